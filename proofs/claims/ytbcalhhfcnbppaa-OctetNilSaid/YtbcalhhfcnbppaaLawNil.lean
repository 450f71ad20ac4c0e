/- It is proved that OctetNil returns true for every size: the calls of a reader that is nil return ErrNil, or nothing. Conditions: none. -/
import Derived.Test.YtbcalhhfcnbppaaRows
import Derived.Test.YtbcalhhfcnbppaaQ
import Derived.ProofKit
import Derived.OpenShut
import Derived.ChangeOld
namespace Go.Proofs.Ytbcalhhfcnbppaa.octetNil
open Go.ChangeShapes Go.WideShapes Go.ChangeAt Go.RowKit
set_option linter.unusedVariables false

theorem own : ownKnob Try.prog.godebug = none := by kernel_rfl
theorem laidOut : laidOutB Try.prog = true := by kernel_rfl

set_option maxHeartbeats 1000000 in
theorem walk (a0 : Int) (w : World) (w0 : (Lit.int .i64 a0).wf = true) :
    Calls Try.prog 6 #[.int .i64 a0] w fun e w' => e = .returned (.bool true) ∧ Below w.heap.size w w' := by
  have hb := bounds_i64 w0
  go_enter Try.func6, Try.ntmps6
  go_wp2_with fail
  refine (lives_any w).mono ?_
  rintro e1 w1 ⟨rfl, hb1⟩
  have HB1 := Lib.hid hb1
  have hz1 := hb1.size
  clear hb1
  go_wp2_with (first | (go_at_call 10; refine (num_nil _).mono ?_; rintro e w' ⟨rfl, rfl⟩) | (go_at_call 12; refine (block_nil _).mono ?_; rintro e w' ⟨rfl, rfl⟩) | (go_at_call 11; refine (word_nil _ _).mono ?_; rintro e w' ⟨rfl, rfl⟩) | (go_at_call 30; refine (takeN_nil a0 (by omega) _).mono ?_; rintro e w' ⟨rfl, rfl⟩))
  refine (digest_nil w1).mono ?_
  rintro e2 w2 ⟨rfl, hb2⟩
  have HB2 := Lib.hid hb2
  clear hb2
  have heq := eq33_lit
  go_wp2_with (first | (go_at_call 17; refine (err_nil _).mono ?_; rintro e w' ⟨rfl, rfl⟩) | (go_at_call 14; refine (end_nil _).mono ?_; rintro e w' ⟨rfl, rfl⟩) | (go_at_call 13; refine (left_nil _).mono ?_; rintro e w' ⟨rfl, rfl⟩))
  go_ret
  exact ⟨rfl, HB1.out.trans (HB2.out.mono hz1)⟩

set_option maxRecDepth 100000 in
theorem lifted (os : Os) (started : os.Started) (H : Type) (enc : TypeId × Value → H) :
    ReturnsInHanded {} Try.checked os 6 .any (Rows.octetNilSpec.pre6 enc Try.prog Try.f6 Rows.octetNilRow.domain false) (Rows.octetNilSpec.post enc Try.prog Try.f6 false true false false) := by
  refine returnsInHanded_of_change (C := Try.checked) own started (by kernel_rfl) Try.func6
    (ChangeSpec.witness6 (enc := enc) (C := Try.checked) false ⟨#[], #[.int .i64 0], []⟩ 8 (by kernel_rfl) (by kernel_rfl) (by kernel_rfl) (by kernel_rfl)) ?_
  intro W base args ds gs before hval0 hW hcnd _
  have hval : ∀ (j : Nat) t v, Try.f6.params[j]? = some t → args[j]? = some v → Value.okWide Try.prog W .any base t v := hval0
  have hW' := hW
  obtain ⟨p, q, hA0, hV, rfl, hfz, hnd⟩ := hW
  have hA : DataW.TrodAll enc Try.prog W 0 (fun _ => true) true Try.f6.params.toList args.toList ds p := hA0
  rw [Try.params6] at hA hval
  obtain ⟨v0, vs0, d0, ds0, p0, q0, hargs, rfl, rfl, h0, r0⟩ := trodAll_cons hA
  obtain ⟨rfl, rfl, rfl⟩ := trodAll_nil r0
  obtain rfl : args = #[v0] := by cases args; simp_all
  obtain ⟨rfl, rfl⟩ := trodVars_none hV
  obtain ⟨a0, rfl, rfl, rfl, w0⟩ := open_int Try.underlying3 (hval 0 3 v0 rfl rfl) h0
  clear hA0 hval0
  refine (walk a0 W w0).mono fun e W' ⟨he, bel⟩ => ?_
  subst he
  exact ⟨_, rfl, _, _, _, [], _, [], hW', trodAll_mk1 (shut_bool Try.underlying4 _), (trodAll_cons_mk (shut_int Try.underlying3 w0) trodAll_mk0), rfl, bel.frame _, fun h => by cases h⟩

theorem over : Rows.octetNilRow.holds Try.pinned (OpenSpec.ofChange Rows.octetNilSpec) :=
  OpenClaim.holds_of_wide 6 Try.f6 rfl rfl rfl rfl rfl rfl rfl ⟨rfl, rfl, rfl, rfl, rfl⟩ rfl rfl rfl rfl rfl (by kernel_rfl) Try.func6 (by kernel_rfl)
    (of_decide_eq_true (by kernel_rfl)) (by unfold Func.isWrapper; first | (rw [if_pos (by decide +kernel)]; kernel_rfl) | (rw [if_neg (by decide +kernel)]; exact ⟨rfl, rfl⟩))
    (fun os started H enc _ => lifted os started H enc)

/-- The statement. -/
theorem proved : Rows.OctetNilSaid := over
#print axioms proved
end Go.Proofs.Ytbcalhhfcnbppaa.octetNil
