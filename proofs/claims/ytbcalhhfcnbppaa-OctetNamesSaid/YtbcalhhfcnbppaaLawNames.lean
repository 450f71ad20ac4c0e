/- It is proved that OctetNames returns true: the examples of chapter 1 have the results that it states. Conditions: none. -/
import Derived.Test.YtbcalhhfcnbppaaRows
import Derived.Test.YtbcalhhfcnbppaaQ
import Derived.ProofKit
import Derived.OpenShut
import Derived.ChangeOld
namespace Go.Proofs.Ytbcalhhfcnbppaa.octetNames
open Go.ChangeShapes Go.WideShapes Go.ChangeAt Go.RowKit
set_option linter.unusedVariables false

theorem own : ownKnob Try.prog.godebug = none := by kernel_rfl
theorem laidOut : laidOutB Try.prog = true := by kernel_rfl

def exL : List UInt8 := [5, 1, 2, 3, 4, 5, 6, 7, 8, 1, 97, 9]
theorem ex1 : numS exL 0 0 = (5, 1, 0) := by decide +kernel
theorem ex2 : takeS exL 1 0 (wsz 8) = ([1, 2, 3, 4, 5, 6, 7, 8], 9, 0) := by decide +kernel
theorem ex3 : blkS exL 9 0 = ([97], 11, 0) := by decide +kernel
theorem ex4 : takeS [] 0 0 32 = ([], 0, 5) := by decide +kernel
theorem ex5 : ([9] : List UInt8) ++ le 258 (wsz 2) = [9, 2, 1] := by decide +kernel
theorem ex6 : (([] : List UInt8) ++ le 1 (wsz 0)).length = 1 := by decide +kernel
theorem ex7 : (([] : List UInt8) ++ le 1 (wsz 99)).length = 8 := by decide +kernel

theorem row_cells {w : World} {g : Nat} {cs : Array Value} {t : TypeId} (h : w.heap[g]? = some (.cells cs t (0, 0))) (i : Nat) (u : Value) (hu : cs.toList[i]? = some u) : w.cell? ⟨g, 0 + i, none⟩ = some u := by
  rw [cell_of_row w g (0 + i) cs t (0, 0) h, Nat.zero_add]
  simpa using hu
theorem rdr_drewN {w : World} {lo hi g : Nat} {l : List UInt8} {k e : Nat} (h : Rdr w lo hi g l k e) (q : Nat) : Rdr (w.drewN q) lo hi g l k e :=
  h.far (row := none) (grownBy_drewN (World.grownBy.refl w none) q) (by simp)

set_option maxHeartbeats 2000000 in
theorem walk (w : World) : Calls Try.prog 3 #[] w fun e w' => e = .returned (.bool true) ∧ Below w.heap.size w w' := by
  go_enter Try.func3, Try.ntmps3
  go_wp2_with fail
  refine (read_lit w #[.int .u8 5, .int .u8 1, .int .u8 2, .int .u8 3, .int .u8 4, .int .u8 5, .int .u8 6, .int .u8 7, .int .u8 8, .int .u8 1, .int .u8 97, .int .u8 9] exL rfl (by simp [exL]) 12 rfl).mono ?_
  rintro e1 w1 ⟨g, rfl, hr1, hb1⟩
  have R1 := Lib.hid hr1
  have B1 := Lib.hid hb1
  have z1 := hb1.size
  clear hr1 hb1
  go_wp2_with fail
  refine (R1.out.num (by simp [exL])).mono ?_
  rw [ex1]
  rintro e2 w2 ⟨rfl, hg2, hr2⟩
  have R2 := Lib.hid hr2
  have G2 := Lib.hid hg2
  clear hr2 hg2
  go_wp2_with fail
  refine (R2.out.word (by simp [exL]) 8).mono ?_
  rw [ex2]
  rintro e3 w3 ⟨rfl, hg3, hr3⟩
  have R3 := Lib.hid hr3
  have G3 := Lib.hid hg3
  clear hr3 hg3
  go_wp2_with fail
  refine (R3.out.block (by simp [exL])).mono ?_
  rw [ex3]
  rintro e4 w4 ⟨v4, rfl, ho4, hg4, hr4⟩
  obtain ⟨A4, c4, rfl, _, _, hs4⟩ := own_shape ho4
  have R4 := Lib.hid hr4
  have G4 := Lib.hid hg4
  have S4 := Lib.hid hs4
  clear hr4 hg4 ho4 hs4
  go_wp2_with fail
  refine (R4.out.left (by simp [exL])).mono ?_
  rintro e5 w5 ⟨rfl, q5, rfl⟩
  go_wp2_with fail
  have R5 := Lib.hid (rdr_drewN R4.out q5)
  refine (R5.out.end_ (by simp [exL])).mono ?_
  rw [if_pos rfl, if_pos (by simp [exL])]
  rintro e6 w6 ⟨rfl, q6, rfl⟩
  have R6 := Lib.hid (rdr_drewN R5.out q6)
  have B6 : Hid (Below w.heap.size w ((w4.drewN q5).drewN q6)) := by
    have a1 := R1.out.lo_le
    have a2 := G2.out.size
    have a3 := G3.out.size
    have a4 := G4.out.size
    have b2 := B1.out.grown G2.out z1 (fun r hr => by injection hr; omega)
    have b3 := b2.grown G3.out b2.size (fun r hr => by injection hr; omega)
    have b4 := b3.grown G4.out b3.size (fun r hr => by injection hr; omega)
    exact below_drewN' (below_drewN' b4 _) _
  have z6 := B6.out.size
  have S6 : Hid (Src ((w4.drewN q5).drewN q6) (fun g => w3.heap.size ≤ g ∧ g < w4.heap.size) A4 [97].length (bcs [97])) := (S4.out.drewN q5).drewN q6
  have z64 : w4.heap.size ≤ ((w4.drewN q5).drewN q6).heap.size := Nat.le_refl _
  clear R4 R5 S4 G2 G3 G4 B1 R1 R2 R3
  obtain ⟨W6, hW6⟩ : ∃ W6, W6 = (w4.drewN q5).drewN q6 := ⟨_, rfl⟩
  rw [← hW6] at B6 z6 R6 S6 z64 ⊢
  clear hW6
  go_wp2_with fail
  refine (read_any W6 (fun _ => False) none 0 0 [] (Src.nil_ _ _ _) (fun _ h => h.elim) (by omega)).mono ?_
  rintro e7 w7 ⟨g7, rfl, hr7, hb7⟩
  have R7 := Lib.hid hr7
  have B7 := Lib.hid hb7
  have z7 := hb7.size
  clear hr7 hb7
  go_wp2_with fail
  refine (R7.out.digest (by simp)).mono ?_
  rw [ex4, show dcells [] = zarr 32 from rfl]
  rintro e8 w8 ⟨rfl, hg8, hr8⟩
  have R8 := Lib.hid hr8
  have G8 := Lib.hid hg8
  have z8 := hg8.size
  clear hr8 hg8
  go_wp2_with (first | (with_reducible refine wpList_alloc_row rfl 33 rfl (.agg (zarr 32)) zero33 ?_; intro w9 hh9 hz9 hg9) | ((with_reducible show wpList _ _ _ (⟨none, .store 33 (.tmp 8) (.tmp 23), _, _, _, _⟩ :: _) _ _); refine wpList_store_all rfl 33 (.tmp 8) (.tmp 23) rfl w8.heap.size rfl (zarr 32) rfl 33 (zarr 32) hh9 size33 rfl (zarr_one 32) ?_; intro w10 hh10 hg10 hz10; have H9 := Lib.hid hh9; have H10 := Lib.hid hh10; have G9 := Lib.hid hg9; have G10 := Lib.hid hg10; clear hh9 hg9 hh10 hg10))
  have K : Hid (Below w.heap.size w w10 ∧ Rdr w10 (w.heap.size + 1) w1.heap.size g exL 11 0 ∧ Rdr w10 W6.heap.size w7.heap.size g7 [] 0 5 ∧ Src w10 (fun g => w3.heap.size ≤ g ∧ g < w4.heap.size) A4 [97].length (bcs [97])) := by
    have g7a := R7.out.lo_le
    have g7b := R7.out.g_lt
    have hi6 := R6.out.hi_le
    have s9 := G9.out.size
    have s10 := G10.out.size
    refine ⟨?_, ?_, ?_, ?_⟩
    · have b7 := B6.out.trans (B7.out.mono z6)
      have b8 := b7.grown G8.out (by omega) (fun r hr => by injection hr; omega)
      have b9 := b8.grown G9.out (by omega) (by simp)
      exact b9.grown G10.out (by omega) (fun r hr => by injection hr; omega)
    · have r7 := R6.out.below B7.out (by omega)
      have r8 := r7.far G8.out (fun r hr => by injection hr; omega)
      have r9 := r8.far G9.out (by simp)
      exact r9.far G10.out (fun r hr => by injection hr; omega)
    · have r9 := R8.out.far G9.out (by simp)
      exact r9.far G10.out (fun r hr => by injection hr; omega)
    · have s7 := (S6.out.weak (S' := (· < W6.heap.size)) (fun b hb => by omega)).below (S' := (· < W6.heap.size)) B7.out (fun _ h => h)
      have s8 := s7.grown G8.out (fun b hb => ⟨by omega, fun e => by injection e; omega⟩) (fun _ h => h)
      have s9' := s8.grown G9.out (fun b hb => ⟨by omega, by simp⟩) (fun _ h => h)
      have s10' := s9'.grown G10.out (fun b hb => ⟨by omega, fun e => by injection e; omega⟩) (S' := (· < W6.heap.size)) (fun _ h => h)
      exact ⟨s10'.len, fun hn => by
        obtain ⟨b, o, e1, hS, _⟩ := S6.out.lies hn
        obtain ⟨b', o', e2, _, hc⟩ := s10'.lies hn
        rw [e1] at e2
        injection e2 with e2
        injection e2 with e3 e4
        subst e3; subst e4
        exact ⟨b, o, e1, hS, hc⟩⟩
  have z10 : w8.heap.size < w10.heap.size := by have := G10.out.size; omega
  have z14 : w4.heap.size ≤ w10.heap.size := by omega
  clear B6 R6 B7 R7 R8 G8 G9 G10 H9 S6
  have kn : (((lev [1, 2, 3, 4, 5, 6, 7, 8] : Nat) : Int) == 578437695752307201) = true := by decide
  have kl : (((exL.length - 11 : Nat) : Int) == 1) = true := by decide
  refine (lives_any w10).mono ?_
  rintro e11 w11 ⟨rfl, hb11⟩
  have K11 : Hid (Below w.heap.size w w11 ∧ Rdr w11 (w.heap.size + 1) w1.heap.size g exL 11 0 ∧ Rdr w11 W6.heap.size w7.heap.size g7 [] 0 5) := by
    obtain ⟨a, b, c, d⟩ := K.out
    exact ⟨a.trans (hb11.mono (by have := a.size; omega)), b.below hb11 b.hi_le, c.below hb11 c.hi_le⟩
  have hc11 : (convert 24 9 (.slice A4 1 c4)).run Try.prog w11 = .ok (.string ⟨#[97]⟩) w11 :=
    conv_src (l := [97]) ((K.out.2.2.2.weak (S' := (· < w10.heap.size)) (fun b hb => by omega)).below (S' := fun _ => True) hb11 (fun _ _ => trivial))
  have H11 := Lib.hid ((hb11.block w8.heap.size z10).trans H10.out)
  clear hb11 H10 K
  have heq := eq33_lit
  go_wp2_with fail
  refine K11.out.2.1.err.mono ?_
  rintro e12 w12 ⟨rfl, rfl⟩
  go_wp2_with ((with_reducible show wpList _ _ _ (⟨_, .load 33 (.tmp 8), _, _, _, _⟩ :: _) _ _); refine wpList_load_arr rfl 33 (.tmp 8) rfl w8.heap.size 0 rfl (zarr 32).toList (row_cells H11.out) _ under33 rfl size33 ?_)
  refine K11.out.2.2.err.mono ?_
  rintro e13 w13 ⟨rfl, rfl⟩
  go_wp2_with fail
  refine (K11.out.2.2.end_ (by simp)).mono ?_
  rw [if_neg (by omega)]
  rintro e14 w14 ⟨rfl, q14, rfl⟩
  have B14 : Hid (Below w.heap.size w (w11.drewN q14)) := below_drewN' K11.out.1 _
  clear K11 H11 hc11
  obtain ⟨W, hW⟩ : ∃ W, W = w11.drewN q14 := ⟨_, rfl⟩
  rw [← hW] at B14 ⊢
  clear hW heq
  go_wp2_with fail
  refine (word_any (W.alloc (.cells #[.int .u8 9] 5)) _ _ 1 1 [9] 258 2 (Src.lit W #[.int .u8 9] 5 [9] rfl) (fun b hb => by simp; omega) (by omega) (by omega)).mono ?_
  rw [ex5]
  rintro e15 w15 ⟨v15, rfl, ho15, hb15⟩
  obtain ⟨A15, c15, rfl, _, _, hs15⟩ := own_shape ho15
  have hc15 : (convert 24 9 (.slice A15 3 c15)).run Try.prog w15 = .ok (.string ⟨#[9, 2, 1]⟩) w15 := conv_src (l := [9, 2, 1]) hs15
  have B15 : Hid (Below w.heap.size w w15) := B14.out.trans (((Below.refl _ W).alloc B14.out.size _).trans (hb15.mono (by have := B14.out.size; simp; omega)))
  clear ho15 hs15 hb15 B14
  go_wp2_with fail
  clear hc15
  refine (word_any w15 (fun _ => False) none 0 0 [] 1 0 (Src.nil_ _ _ _) (fun _ h => h.elim) (by omega) (by omega)).mono ?_
  rintro e16 w16 ⟨v16, rfl, ho16, hb16⟩
  rw [ex6] at ho16
  obtain ⟨A16, c16, rfl, _, _, _⟩ := own_shape ho16
  have B16 : Hid (Below w.heap.size w w16) := B15.out.trans (hb16.mono B15.out.size)
  clear ho16 hb16 B15
  go_wp2_with fail
  refine (word_any w16 (fun _ => False) none 0 0 [] 1 99 (Src.nil_ _ _ _) (fun _ h => h.elim) (by omega) (by omega)).mono ?_
  rintro e17 w17 ⟨v17, rfl, ho17, hb17⟩
  rw [ex7] at ho17
  obtain ⟨A17, c17, rfl, _, _, _⟩ := own_shape ho17
  have B17 : Hid (Below w.heap.size w w17) := B16.out.trans (hb17.mono B16.out.size)
  clear ho17 hb17 B16
  go_wp2
  go_ret
  exact ⟨rfl, B17.out⟩

set_option maxRecDepth 100000 in
theorem lifted (os : Os) (started : os.Started) (H : Type) (enc : TypeId × Value → H) :
    ReturnsInHanded {} Try.checked os 3 .any (Rows.octetNamesSpec.pre6 enc Try.prog Try.f3 Rows.octetNamesRow.domain false) (Rows.octetNamesSpec.post enc Try.prog Try.f3 false true false false) := by
  refine returnsInHanded_of_change (C := Try.checked) own started (by kernel_rfl) Try.func3
    (ChangeSpec.witness6 (enc := enc) (C := Try.checked) false ⟨#[], #[], []⟩ 8 (by kernel_rfl) (by kernel_rfl) (by kernel_rfl) (by kernel_rfl)) ?_
  intro W base args ds gs before hval0 hW hcnd _
  have hval : ∀ (j : Nat) t v, Try.f3.params[j]? = some t → args[j]? = some v → Value.okWide Try.prog W .any base t v := hval0
  have hW' := hW
  obtain ⟨p, q, hA0, hV, rfl, hfz, hnd⟩ := hW
  have hA : DataW.TrodAll enc Try.prog W 0 (fun _ => true) true Try.f3.params.toList args.toList ds p := hA0
  rw [Try.params3] at hA hval
  obtain ⟨hargs, rfl, rfl⟩ := trodAll_nil hA
  obtain rfl : args = #[] := by cases args; simp_all
  obtain ⟨rfl, rfl⟩ := trodVars_none hV
  clear hA0 hval0
  refine (walk W).mono fun e W' ⟨he, bel⟩ => ?_
  subst he
  exact ⟨_, rfl, _, _, _, [], _, [], hW', trodAll_mk1 (shut_bool Try.underlying4 _), trodAll_mk0, rfl, bel.frame _, fun h => by cases h⟩

theorem over : Rows.octetNamesRow.holds Try.pinned (OpenSpec.ofChange Rows.octetNamesSpec) :=
  OpenClaim.holds_of_wide 3 Try.f3 rfl rfl rfl rfl rfl rfl rfl ⟨rfl, rfl, rfl, rfl, rfl⟩ rfl rfl rfl rfl rfl (by kernel_rfl) Try.func3 (by kernel_rfl)
    (of_decide_eq_true (by kernel_rfl)) (by unfold Func.isWrapper; first | (rw [if_pos (by decide +kernel)]; kernel_rfl) | (rw [if_neg (by decide +kernel)]; exact ⟨rfl, rfl⟩))
    (fun os started H enc _ => lifted os started H enc)

/-- The statement. -/
theorem proved : Rows.OctetNamesSaid := over
#print axioms proved
end Go.Proofs.Ytbcalhhfcnbppaa.octetNames
