/- It is proved that OctetOrder returns true for any two numbers: their bytes are ordered as they are, a greater one has no fewer bytes, and each has the smallest size that has room. Conditions: none. -/
import Derived.Test.YtbcalhhfcnbppaaRows
import Derived.Test.YtbcalhhfcnbppaaL
import Derived.Test.YtbcalhhfcnbppaaN
import Derived.ProofKit
import Derived.OpenShut
import Derived.ChangeOld
namespace Go.Proofs.Ytbcalhhfcnbppaa.octetOrder
open Go.ChangeShapes Go.WideShapes Go.ChangeAt Go.RowKit
set_option linter.unusedVariables false

theorem own : ownKnob Try.prog.godebug = none := by kernel_rfl
theorem laidOut : laidOutB Try.prog = true := by kernel_rfl

theorem room_up (n : Nat) (h : sz n ≤ 8) : (n : Int) / 2 ^ (7 * sz n) = 0 := by
  have := sz_upper n h
  rw [show (128 : Nat) = 2 ^ 7 from rfl, ← Nat.pow_mul] at this
  have e : (n : Int) / 2 ^ (7 * sz n) = ((n / 2 ^ (7 * sz n) : Nat) : Int) := by simp
  rw [e, Nat.div_eq_of_lt this]
  rfl
theorem room_low (n : Nat) (h : 2 ≤ sz n) : (n : Int) / 2 ^ (7 * (sz n - 1)) ≠ 0 := by
  have := sz_lower n h
  rw [show (128 : Nat) = 2 ^ 7 from rfl, ← Nat.pow_mul] at this
  have e : (n : Int) / 2 ^ (7 * (sz n - 1)) = ((n / 2 ^ (7 * (sz n - 1)) : Nat) : Int) := by simp
  have h1 : 1 ≤ n / 2 ^ (7 * (sz n - 1)) := by rw [Nat.le_div_iff_mul_le (Nat.two_pow_pos _)]; omega
  rw [e]
  omega

set_option maxHeartbeats 2000000 in
theorem walkN (n m : Nat) (w : World) (hn : n < 18446744073709551616) (hm : m < 18446744073709551616) :
    Calls Try.prog 8 #[.int .u64 n, .int .u64 m] w fun e w' => e = .returned (.bool true) ∧ Below w.heap.size w w' := by
  have CN := Lib.hid (fun w => number_any w (fun _ => False) none 0 0 [] n (Src.nil_ _ _ _) (fun _ h => h.elim) (by omega) hn)
  have CM := Lib.hid (fun w => number_any w (fun _ => False) none 0 0 [] m (Src.nil_ _ _ _) (fun _ h => h.elim) (by omega) hm)
  rw [List.nil_append] at CN CM
  go_enter Try.func8, Try.ntmps8
  go_wp2_with fail
  refine (lives_any w).mono ?_
  rintro e1 w1 ⟨rfl, hb1⟩
  have HB1 := Lib.hid hb1
  have hz1 := hb1.size
  clear hb1
  go_wp2_with fail
  refine (CN.out w1).mono ?_
  rintro e2 w2 ⟨v2, rfl, ho2, hb2⟩
  have HO2 := Lib.hid ho2
  have HB2 := Lib.hid hb2
  have hz2 := hb2.size
  clear ho2 hb2
  go_wp2_with fail
  refine (CM.out w2).mono ?_
  rintro e3 w3 ⟨v3, rfl, ho3, hb3⟩
  have HO3 := Lib.hid ho3
  have HB3 := Lib.hid hb3
  have hz3 := hb3.size
  clear ho3 hb3
  obtain ⟨A2, c2, rfl, _, _, hs2⟩ := own_shape HO2.out
  obtain ⟨A3, c3, rfl, _, _, hs3⟩ := own_shape HO3.out
  have hs2' := (hs2.weak (S' := (· < w2.heap.size)) (fun b hb => hb.2)).below (S' := fun _ => True) HB3.out (fun _ _ => trivial)
  have hc2 := conv_src (c := c2) hs2'
  have hc3 := conv_src (c := c3) hs3
  have l2 := encN_len n
  have l3 := encN_len m
  rw [l2] at hc2
  rw [l3] at hc3
  rw [l2, l3]
  clear hs2 hs3 hs2' HO2 HO3 CN CM
  have q1 := sz_pos n
  have q9 := sz_le n
  have FIN : Hid (Below w.heap.size w w3) := (HB1.out.trans (HB2.out.mono hz1)).trans (HB3.out.mono (by omega))
  have f0 : sz n = 9 ∨ sz n ≤ 8 ∧ ((n : Int) / 2 ^ (7 * sz n) == 0) = true := by
    by_cases h : sz n ≤ 8
    · exact .inr ⟨h, by rw [room_up n h]; rfl⟩
    · exact .inl (by omega)
  have f1 : sz n = 1 ∨ 2 ≤ sz n ∧ ((n : Int) / 2 ^ (7 * (sz n - 1)) != 0) = true := by
    by_cases h : 2 ≤ sz n
    · exact .inr ⟨h, by simpa using room_low n h⟩
    · exact .inl (by omega)
  have g : (n < m ∧ Op.bytesLess (encN n) (encN m) = true ∧ (encN n == encN m) = false ∧ ((n : Int) == (m : Int)) = false ∧ sz n ≤ sz m) ∨
      (n = m ∧ encN n = encN m ∧ sz n = sz m) ∨ (m < n ∧ Op.bytesLess (encN n) (encN m) = false ∧ (encN n == encN m) = false ∧ ((n : Int) == (m : Int)) = false) := by
    rcases Nat.lt_trichotomy n m with h | h | h
    · have hl := less_enc n m (by omega) h
      exact .inl ⟨h, hl, by simpa using less_ne hl, by simp; omega, sz_mono n m (by omega)⟩
    · exact .inr (.inl ⟨h, by rw [h], by rw [h]⟩)
    · have hl := less_enc m n (by omega) h
      exact .inr (.inr ⟨h, less_asymm _ _ hl, by simpa using (less_ne hl).symm, by simp; omega⟩)
  clear l2 l3 HB1 HB2 HB3 hz1 hz2 hz3
  generalize encN n = E2 at *
  generalize encN m = E3 at *
  generalize sz n = s2 at *
  generalize sz m = s3 at *
  have cs : (((s2 : Int) == 9) = true ∧ ((s2 : Int) == 1) = false ∧ ((n : Int) / 2 ^ (7 * (s2 - 1)) != 0) = true) ∨ (((s2 : Int) == 9) = false ∧ ((s2 : Int) == 1) = true ∧ ((n : Int) / 2 ^ (7 * s2) == 0) = true) ∨
      (((s2 : Int) == 9) = false ∧ ((s2 : Int) == 1) = false ∧ ((n : Int) / 2 ^ (7 * s2) == 0) = true ∧ ((n : Int) / 2 ^ (7 * (s2 - 1)) != 0) = true) := by
    rcases f0 with h9 | ⟨h8, f0⟩
    · rcases f1 with h1 | ⟨h2, f1⟩
      · omega
      · exact .inl ⟨by simp; omega, by simp; omega, f1⟩
    · rcases f1 with h1 | ⟨h2, f1⟩
      · exact .inr (.inl ⟨by simp; omega, by simp; omega, f0⟩)
      · exact .inr (.inr ⟨by simp; omega, by simp; omega, f0, f1⟩)
  clear f0 f1
  rcases g with ⟨h, hl, hne, hi, hs⟩ | ⟨rfl, rfl, rfl⟩ | ⟨h, hl, hne, hi⟩
  · have hs' : ¬ (s3 < s2) := by omega
    rcases cs with ⟨n9, n1, f1⟩ | ⟨n9, n1, f0⟩ | ⟨n9, n1, f0, f1⟩
    all_goals
      go_wp2
      go_ret
      exact ⟨rfl, FIN.out⟩
  · have hl := less_irrefl E2
    rcases cs with ⟨n9, n1, f1⟩ | ⟨n9, n1, f0⟩ | ⟨n9, n1, f0, f1⟩
    all_goals
      go_wp2
      go_ret
      exact ⟨rfl, FIN.out⟩
  · rcases cs with ⟨n9, n1, f1⟩ | ⟨n9, n1, f0⟩ | ⟨n9, n1, f0, f1⟩
    all_goals
      go_wp2
      go_ret
      exact ⟨rfl, FIN.out⟩

theorem walk (a0 : Int) (a1 : Int) (w : World) (w0 : (Lit.int .u64 a0).wf = true) (w1 : (Lit.int .u64 a1).wf = true) :
    Calls Try.prog 8 #[.int .u64 a0, .int .u64 a1] w fun e w' => e = .returned (.bool true) ∧ Below w.heap.size w w' := by
  have b0 := bounds_u64 w0
  have b1 := bounds_u64 w1
  obtain ⟨n, rfl⟩ := Int.eq_ofNat_of_zero_le b0.1
  obtain ⟨m, rfl⟩ := Int.eq_ofNat_of_zero_le b1.1
  exact walkN n m w (by omega) (by omega)

set_option maxRecDepth 100000 in
theorem lifted (os : Os) (started : os.Started) (H : Type) (enc : TypeId × Value → H) :
    ReturnsInHanded {} Try.checked os 8 .any (Rows.octetOrderSpec.pre6 enc Try.prog Try.f8 Rows.octetOrderRow.domain false) (Rows.octetOrderSpec.post enc Try.prog Try.f8 false true false false) := by
  refine returnsInHanded_of_change (C := Try.checked) own started (by kernel_rfl) Try.func8
    (ChangeSpec.witness6 (enc := enc) (C := Try.checked) false ⟨#[], #[.int .u64 0, .int .u64 0], []⟩ 8 (by kernel_rfl) (by kernel_rfl) (by kernel_rfl) (by kernel_rfl)) ?_
  intro W base args ds gs before hval0 hW hcnd _
  have hval : ∀ (j : Nat) t v, Try.f8.params[j]? = some t → args[j]? = some v → Value.okWide Try.prog W .any base t v := hval0
  have hW' := hW
  obtain ⟨p, q, hA0, hV, rfl, hfz, hnd⟩ := hW
  have hA : DataW.TrodAll enc Try.prog W 0 (fun _ => true) true Try.f8.params.toList args.toList ds p := hA0
  rw [Try.params8] at hA hval
  obtain ⟨v0, vs0, d0, ds0, p0, q0, hargs, rfl, rfl, h0, r0⟩ := trodAll_cons hA
  obtain ⟨v1, vs1, d1, ds1, p1, q1, rfl, rfl, rfl, h1, r1⟩ := trodAll_cons r0
  obtain ⟨rfl, rfl, rfl⟩ := trodAll_nil r1
  obtain rfl : args = #[v0, v1] := by cases args; simp_all
  obtain ⟨rfl, rfl⟩ := trodVars_none hV
  obtain ⟨a0, rfl, rfl, rfl, w0⟩ := open_int Try.underlying25 (hval 0 25 v0 rfl rfl) h0
  obtain ⟨a1, rfl, rfl, rfl, w1⟩ := open_int Try.underlying25 (hval 1 25 v1 rfl rfl) h1
  clear hA0 hval0
  refine (walk a0 a1 W w0 w1).mono fun e W' ⟨he, bel⟩ => ?_
  subst he
  exact ⟨_, rfl, _, _, _, [], _, [], hW', trodAll_mk1 (shut_bool Try.underlying4 _), (trodAll_cons_mk (shut_int Try.underlying25 w0) (trodAll_cons_mk (shut_int Try.underlying25 w1) trodAll_mk0)), rfl, bel.frame _, fun h => by cases h⟩

theorem over : Rows.octetOrderRow.holds Try.pinned (OpenSpec.ofChange Rows.octetOrderSpec) :=
  OpenClaim.holds_of_wide 8 Try.f8 rfl rfl rfl rfl rfl rfl rfl ⟨rfl, rfl, rfl, rfl, rfl⟩ rfl rfl rfl rfl rfl (by kernel_rfl) Try.func8 (by kernel_rfl)
    (of_decide_eq_true (by kernel_rfl)) (by unfold Func.isWrapper; first | (rw [if_pos (by decide +kernel)]; kernel_rfl) | (rw [if_neg (by decide +kernel)]; exact ⟨rfl, rfl⟩))
    (fun os started H enc _ => lifted os started H enc)

/-- The statement. -/
theorem proved : Rows.OctetOrderSaid := over
#print axioms proved
end Go.Proofs.Ytbcalhhfcnbppaa.octetOrder
