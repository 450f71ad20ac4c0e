/- It is proved that FieldPowers returns true for any number and two small exponents: what is not 0 has an inverse, and powers multiply by adding exponents. Conditions: none. -/
import Derived.Test.YtlkjengcmlfknaaRows
import Derived.Test.YtlkjengcmlfknaaGE
import Derived.ProofKit
import Derived.OpenShut
import Derived.ChangeOld
namespace Go.Proofs.Ytlkjengcmlfknaa.fieldPowers
open Go.ChangeShapes Go.WideShapes Go.ChangeAt Go.RowKit
set_option linter.unusedVariables false

theorem own : ownKnob Try.prog.godebug = none := by kernel_rfl
theorem laidOut : laidOutB Try.prog = true := by kernel_rfl
set_option linter.unusedSimpArgs false

/-- The rows of the law's numbers. -/
structure LP (w : World) (A i m n sm l pw x g7 g9 g10 g11 g12 g14 g15 : Nat) (w' : World) : Prop where
  a : NAt w' w.heap.size A
  i : NAt w' g7 i
  m : NAt w' g9 m
  n : NAt w' g10 n
  s : NAt w' g11 sm
  l : NAt w' g12 l
  p : NAt w' g14 pw
  x : NAt w' g15 x
  bel : Below w.heap.size w w'
  hg : w.heap.size ≤ g15
  d : w.heap.size ≠ g15 ∧ g7 ≠ g15 ∧ g9 ≠ g15 ∧ g10 ≠ g15 ∧ g11 ≠ g15 ∧ g12 ≠ g15 ∧ g14 ≠ g15
theorem LP.keep {w : World} {A i m n sm l pw x g7 g9 g10 g11 g12 g14 g15 : Nat} {w' w'' : World} (h : LP w A i m n sm l pw x g7 g9 g10 g11 g12 g14 g15 w') (hb : Below w'.heap.size w' w'') : LP w A i m n sm l pw x g7 g9 g10 g11 g12 g14 g15 w'' :=
  ⟨h.a.keep hb, h.i.keep hb, h.m.keep hb, h.n.keep hb, h.s.keep hb, h.l.keep hb, h.p.keep hb, h.x.keep hb, h.bel.trans (hb.mono h.bel.size), h.hg, h.d⟩
theorem LP.set {w : World} {A i m n sm l pw x y g7 g9 g10 g11 g12 g14 g15 : Nat} {w' w'' : World} (h : LP w A i m n sm l pw x g7 g9 g10 g11 g12 g14 g15 w') (hg : w'.grownBy w'' (some g15)) (hy : NAt w'' g15 y) : LP w A i m n sm l pw y g7 g9 g10 g11 g12 g14 g15 w'' := by
  obtain ⟨d1, d2, d3, d4, d5, d6, d7⟩ := h.d
  exact ⟨h.a.grown hg (by simp; omega), h.i.grown hg (by simp; omega), h.m.grown hg (by simp; omega), h.n.grown hg (by simp; omega), h.s.grown hg (by simp; omega), h.l.grown hg (by simp; omega), h.p.grown hg (by simp; omega), hy, h.bel.grown hg h.bel.size (fun r hr => by injection hr with hr; have := h.hg; omega), h.hg, h.d⟩
theorem run_rem9 {P : Program} (m : Nat) (w : World) : (binOp .rem 35 (.int .u32 m) (.int .u32 9)).run P w = .ok (.int .u32 ((m % 9 : Nat) : Int)) w := by
  have h : Int.tmod (m : Int) 9 = ((m % 9 : Nat) : Int) := by rw [Int.tmod_eq_emod_of_nonneg (by omega)]; omega
  simp [binOp, Op.intDiv, h]

set_option maxHeartbeats 8000000 in
set_option maxRecDepth 100000 in
theorem powers_core (A i rA m n sm l pw pn ps kk fk : Nat) (f : Nat → Nat) (zA : Bool) (w : World)
    (C0 : Hid (∀ w, Calls Try.prog 10 #[] w (Gives (.bool true) w)))
    (C1 : Hid (∀ w, Calls Try.prog 15 #[vN A] w (Gives (vN i) w)))
    (C2 : Hid (∀ w, Calls Try.prog 11 #[vN A] w (Gives (vN rA) w)))
    (C3 : Hid (∀ w, Calls Try.prog 14 #[.int .u64 (m : Nat)] w (Gives (vN m) w)))
    (C4 : Hid (∀ w, Calls Try.prog 14 #[.int .u64 (n : Nat)] w (Gives (vN n) w)))
    (C5 : Hid (∀ w, Calls Try.prog 14 #[.int .u64 (m + n : Nat)] w (Gives (vN sm) w)))
    (C6 : Hid (∀ w, Calls Try.prog 14 #[.int .u64 1] w (Gives (vN 1) w)))
    (C7 : Hid (∀ w, Calls Try.prog 13 #[vN 1] w (Gives (vN l) w)))
    (C8 : Hid (∀ w, Calls Try.prog 16 #[vN A, vN m] w (Gives (vN pw) w)))
    (C9 : Hid (zA = false → ∀ w, Calls Try.prog 28 #[vN i, vN A] w (Gives (vN 1) w)))
    (C10 : Hid (zA = false → ∀ w, Calls Try.prog 15 #[vN i] w (Gives (vN rA) w)))
    (C11 : Hid (zA = false → ∀ w, Calls Try.prog 16 #[vN A, vN l] w (Gives (vN 1) w)))
    (C12 : Hid (∀ w, Calls Try.prog 16 #[vN A, vN n] w (Gives (vN pn) w)))
    (C13 : Hid (∀ w, Calls Try.prog 28 #[vN pw, vN pn] w (Gives (vN ps) w)))
    (C14 : Hid (∀ w, Calls Try.prog 16 #[vN A, vN sm] w (Gives (vN ps) w)))
    (C15 : Hid (∀ w, Calls Try.prog 14 #[.int .u64 (kk : Nat)] w (Gives (vN kk) w)))
    (C16 : Hid (∀ w, Calls Try.prog 16 #[vN pw, vN kk] w (Gives (vN fk) w)))
    (HZA : Hid (∀ w, (Op.equalIn 10000 23 (vN rA) (vN 0)).run Try.prog w = .ok zA w))
    (HZ : Hid (zA = true → i = 0 ∧ ∀ w, Calls Try.prog 16 #[vN A, vN l] w (Gives (vN 0) w)))
    (HF0 : Hid (f 0 = 1))
    (HFK : Hid (f kk = fk))
    (HF : Hid (∀ j w, Calls Try.prog 28 #[vN (f j), vN pw] w (Gives (vN (f (j + 1))) w)))
    (HM : Hid (m < 4294967296))
    (HN : Hid (n < 4294967296))
    (HK : Hid (n % 9 = kk))
    (HKL : Hid (kk < 9)) :
    Calls Try.prog 6 #[vN A, .int .u32 (m : Nat), .int .u32 (n : Nat)] w (Gives (.bool true) w) := by
  go_enter Try.func6, Try.ntmps6
  go_wp2_with (first | ((with_reducible show wpList _ _ _ (⟨some 3, .box 23 (.tmp 0), _, _, _, _⟩ :: _) _ _); go_must (refine wpList_box_row rfl 23 (.tmp 0) rfl (bcs (enc A)).toArray rfl ?_; intro w1 h1 z1 g1; have H1 := Lib.hid h1; have Z1 := Lib.hid z1; have G1 := Lib.hid g1; clear h1 z1 g1)) | fail)
  have RA_0 : Hid (NAt w1 w.heap.size A) := ⟨23, H1.out⟩
  have HB_0 : Hid (Below w.heap.size w w1) := below_of_grownBy G1.out
  clear H1 Z1 G1
  refine (C0.out _).mono ?_
  rintro ex x11 ⟨rfl, hb⟩
  have RA_11 := Lib.hid (RA_0.out.keep hb)
  have HB_11 := Lib.hid (HB_0.out.trans (hb.mono HB_0.out.size))
  clear hb RA_0 HB_0
  go_wp2_with (first | ((with_reducible show wpList _ _ _ (⟨_, .load 23 (.tmp 3), _, _, _, _⟩ :: _) _ _); go_must (refine wpList_exec rfl (vN A) (exec_load23 (.tmp 3) rfl (w.heap.size) A rfl RA_11.out) ?_)) | fail)
  refine (C1.out _).mono ?_
  rintro ex x12 ⟨rfl, hb⟩
  have RA_12 := Lib.hid (RA_11.out.keep hb)
  have HB_12 := Lib.hid (HB_11.out.trans (hb.mono HB_11.out.size))
  clear hb RA_11 HB_11
  go_wp2_with (first | ((with_reducible show wpList _ _ _ (⟨some 7, .alloc 23, _, _, _, _⟩ :: _) _ _); go_must (refine wpList_alloc_row rfl 23 rfl (.agg (zbs 32)) zero23 ?_; intro u13 h1 z1 g1; have H13 := Lib.hid h1; have Z13 := Lib.hid z1; have G13 := Lib.hid g1; clear h1 z1 g1)) | ((with_reducible show wpList _ _ _ (⟨none, .store 23 (.tmp 7) (.tmp 20), _, _, _, _⟩ :: _) _ _); go_must (refine wpList_store_all rfl 23 (.tmp 7) (.tmp 20) rfl (x12.heap.size) rfl (bcs (enc i)).toArray rfl 23 _ (H13.out) (by rw [List.size_toArray, bcs_enc_len]; exact size23) (by rw [List.size_toArray, bcs_enc_len]; rfl) (bcs_one _) ?_; intro v13 hh hg hz; have HH13 := Lib.hid hh; have HG13 := Lib.hid hg; clear hh hg hz; have RA_13 := Lib.hid ((RA_12.out.grown G13.out (by simp)).grown HG13.out (by have := RA_12.out.lt; simp; omega)); have I_13 : Hid (NAt v13 x12.heap.size i) := Lib.hid ⟨23, HH13.out⟩; have HB_13 : Hid (Below w.heap.size w v13) := Lib.hid ((HB_12.out.grown G13.out HB_12.out.size (by simp)).grown HG13.out (by have := HB_12.out.size; have := Z13.out; omega) (fun r hr => by injection hr with hr; have := HB_12.out.size; omega)); clear H13 Z13 G13 HH13 HG13 HB_12 RA_12)) | ((with_reducible show wpList _ _ _ (⟨_, .load 23 (.tmp 3), _, _, _, _⟩ :: _) _ _); go_must (refine wpList_exec rfl (vN A) (exec_load23 (.tmp 3) rfl (w.heap.size) A rfl RA_13.out) ?_)) | fail)
  generalize x12.heap.size = g7 at *
  refine (C2.out _).mono ?_
  rintro ex x14 ⟨rfl, hb⟩
  have RA_14 := Lib.hid (RA_13.out.keep hb)
  have I_14 := Lib.hid (I_13.out.keep hb)
  have HB_14 := Lib.hid (HB_13.out.trans (hb.mono HB_13.out.size))
  clear hb RA_13 I_13 HB_13
  cases zA
  · go_wp2_with (first | ((with_reducible show wpList _ _ _ (⟨_, .build 23 _, _, _, _, _⟩ :: _) _ _); go_must (refine wpList_exec rfl (vN 0) (exec_build0 rfl) ?_)) | ((with_reducible show wpList _ _ _ (⟨_, .binOp .eql 23 (.tmp 22) (.tmp 23) 23, _, _, _, _⟩ :: _) _ _); go_must (refine wpList_exec rfl (.bool false) (exec_eq23 (.tmp 22) (.tmp 23) rfl rfl rfl (HZA.out _)) ?_)) | ((with_reducible show wpList _ _ _ (⟨_, .convert 35 30 (.tmp 25), _, _, _, _⟩ :: _) _ _); go_must (refine wpList_exec rfl (.int .u64 (m : Nat)) (exec_conv (.tmp 25) rfl (m) (by have := HM.out; omega) rfl) ?_)) | fail)
    refine (C3.out _).mono ?_
    rintro ex x15 ⟨rfl, hb⟩
    have RA_15 := Lib.hid (RA_14.out.keep hb)
    have I_15 := Lib.hid (I_14.out.keep hb)
    have HB_15 := Lib.hid (HB_14.out.trans (hb.mono HB_14.out.size))
    clear hb RA_14 I_14 HB_14
    go_wp2_with (first | ((with_reducible show wpList _ _ _ (⟨_, .convert 35 30 (.tmp 28), _, _, _, _⟩ :: _) _ _); go_must (refine wpList_exec rfl (.int .u64 (n : Nat)) (exec_conv (.tmp 28) rfl (n) (by have := HN.out; omega) rfl) ?_)) | fail)
    refine (C4.out _).mono ?_
    rintro ex x16 ⟨rfl, hb⟩
    have RA_16 := Lib.hid (RA_15.out.keep hb)
    have I_16 := Lib.hid (I_15.out.keep hb)
    have HB_16 := Lib.hid (HB_15.out.trans (hb.mono HB_15.out.size))
    clear hb RA_15 I_15 HB_15
    go_wp2_with (first | ((with_reducible show wpList _ _ _ (⟨some 9, .alloc 23, _, _, _, _⟩ :: _) _ _); go_must (refine wpList_alloc_row rfl 23 rfl (.agg (zbs 32)) zero23 ?_; intro u17 h1 z1 g1; have H17 := Lib.hid h1; have Z17 := Lib.hid z1; have G17 := Lib.hid g1; clear h1 z1 g1)) | ((with_reducible show wpList _ _ _ (⟨some 10, .alloc 23, _, _, _, _⟩ :: _) _ _); go_must (refine wpList_alloc_row rfl 23 rfl (.agg (zbs 32)) zero23 ?_; intro u18 h1 z1 g1; have H18 := Lib.hid h1; have Z18 := Lib.hid z1; have G18 := Lib.hid g1; clear h1 z1 g1)) | ((with_reducible show wpList _ _ _ (⟨none, .store 23 (.tmp 9) (.tmp 27), _, _, _, _⟩ :: _) _ _); go_must (refine wpList_store_all rfl 23 (.tmp 9) (.tmp 27) rfl (x16.heap.size) rfl (bcs (enc m)).toArray rfl 23 _ (ZAt.grown (show ZAt u17 x16.heap.size from H17.out) G18.out (by simp)) (by rw [List.size_toArray, bcs_enc_len]; exact size23) (by rw [List.size_toArray, bcs_enc_len]; rfl) (bcs_one _) ?_; intro v19 hh hg hz; have HH19 := Lib.hid hh; have HG19 := Lib.hid hg; clear hh hg hz)) | ((with_reducible show wpList _ _ _ (⟨none, .store 23 (.tmp 10) (.tmp 30), _, _, _, _⟩ :: _) _ _); go_must (refine wpList_store_all rfl 23 (.tmp 10) (.tmp 30) rfl (u17.heap.size) rfl (bcs (enc n)).toArray rfl 23 _ (ZAt.grown (show ZAt u18 u17.heap.size from H18.out) HG19.out (by have := Z17.out; simp; omega)) (by rw [List.size_toArray, bcs_enc_len]; exact size23) (by rw [List.size_toArray, bcs_enc_len]; rfl) (bcs_one _) ?_; intro v20 hh hg hz; have HH20 := Lib.hid hh; have HG20 := Lib.hid hg; clear hh hg hz; have RA_20 := Lib.hid ((((RA_16.out.grown G17.out (by simp)).grown G18.out (by simp)).grown HG19.out (by have := RA_16.out.lt; simp; omega)).grown HG20.out (by have := RA_16.out.lt; have := Z17.out; simp; omega)); have I_20 := Lib.hid ((((I_16.out.grown G17.out (by simp)).grown G18.out (by simp)).grown HG19.out (by have := I_16.out.lt; simp; omega)).grown HG20.out (by have := I_16.out.lt; have := Z17.out; simp; omega)); have M_20 : Hid (NAt v20 x16.heap.size m) := Lib.hid (NAt.grown ⟨23, HH19.out⟩ HG20.out (by have := Z17.out; simp; omega)); have NN_20 : Hid (NAt v20 u17.heap.size n) := Lib.hid ⟨23, HH20.out⟩; have HB_20 : Hid (Below w.heap.size w v20) := Lib.hid ((((HB_16.out.grown G17.out HB_16.out.size (by simp)).grown G18.out (by have := HB_16.out.size; have := Z17.out; omega) (by simp)).grown HG19.out (by have := HB_16.out.size; have := Z17.out; have := Z18.out; omega) (fun r hr => by injection hr with hr; have := HB_16.out.size; omega)).grown HG20.out (by have := HB_16.out.size; have := Z17.out; have := Z18.out; have := HG19.out.size; omega) (fun r hr => by injection hr with hr; have := HB_16.out.size; have := Z17.out; omega)); clear H17 Z17 G17 H18 Z18 G18 HH19 HG19 HH20 HG20 HB_16 RA_16 I_16)) | ((with_reducible show wpList _ _ _ (⟨_, .convert 35 30 (.tmp 31), _, _, _, _⟩ :: _) _ _); go_must (refine wpList_exec rfl (.int .u64 (m : Nat)) (exec_conv (.tmp 31) rfl (m) (by have := HM.out; omega) rfl) ?_)) | ((with_reducible show wpList _ _ _ (⟨_, .convert 35 30 (.tmp 33), _, _, _, _⟩ :: _) _ _); go_must (refine wpList_exec rfl (.int .u64 (n : Nat)) (exec_conv (.tmp 33) rfl (n) (by have := HN.out; omega) rfl) ?_)) | ((with_reducible show wpList _ _ _ (⟨_, .binOp .add 30 (.tmp 32) (.tmp 34) 30, _, _, _, _⟩ :: _) _ _); go_must (refine wpList_exec rfl (.int .u64 (m + n : Nat)) (exec_bin .add 30 30 (.tmp 32) (.tmp 34) rfl (.int .u64 (m : Nat)) (.int .u64 (n : Nat)) _ rfl rfl rfl (run_add64 m n (by have := HM.out; have := HN.out; omega) _)) ?_)) | fail)
    generalize x16.heap.size = g9 at *
    generalize u17.heap.size = g10 at *
    refine (C5.out _).mono ?_
    rintro ex x21 ⟨rfl, hb⟩
    have RA_21 := Lib.hid (RA_20.out.keep hb)
    have I_21 := Lib.hid (I_20.out.keep hb)
    have M_21 := Lib.hid (M_20.out.keep hb)
    have NN_21 := Lib.hid (NN_20.out.keep hb)
    have HB_21 := Lib.hid (HB_20.out.trans (hb.mono HB_20.out.size))
    clear hb RA_20 I_20 M_20 NN_20 HB_20
    go_wp2_with (first | ((with_reducible show wpList _ _ _ (⟨some 11, .alloc 23, _, _, _, _⟩ :: _) _ _); go_must (refine wpList_alloc_row rfl 23 rfl (.agg (zbs 32)) zero23 ?_; intro u22 h1 z1 g1; have H22 := Lib.hid h1; have Z22 := Lib.hid z1; have G22 := Lib.hid g1; clear h1 z1 g1)) | ((with_reducible show wpList _ _ _ (⟨none, .store 23 (.tmp 11) (.tmp 36), _, _, _, _⟩ :: _) _ _); go_must (refine wpList_store_all rfl 23 (.tmp 11) (.tmp 36) rfl (x21.heap.size) rfl (bcs (enc sm)).toArray rfl 23 _ (H22.out) (by rw [List.size_toArray, bcs_enc_len]; exact size23) (by rw [List.size_toArray, bcs_enc_len]; rfl) (bcs_one _) ?_; intro v22 hh hg hz; have HH22 := Lib.hid hh; have HG22 := Lib.hid hg; clear hh hg hz; have RA_22 := Lib.hid ((RA_21.out.grown G22.out (by simp)).grown HG22.out (by have := RA_21.out.lt; simp; omega)); have I_22 := Lib.hid ((I_21.out.grown G22.out (by simp)).grown HG22.out (by have := I_21.out.lt; simp; omega)); have M_22 := Lib.hid ((M_21.out.grown G22.out (by simp)).grown HG22.out (by have := M_21.out.lt; simp; omega)); have NN_22 := Lib.hid ((NN_21.out.grown G22.out (by simp)).grown HG22.out (by have := NN_21.out.lt; simp; omega)); have SM_22 : Hid (NAt v22 x21.heap.size sm) := Lib.hid ⟨23, HH22.out⟩; have HB_22 : Hid (Below w.heap.size w v22) := Lib.hid ((HB_21.out.grown G22.out HB_21.out.size (by simp)).grown HG22.out (by have := HB_21.out.size; have := Z22.out; omega) (fun r hr => by injection hr with hr; have := HB_21.out.size; omega)); clear H22 Z22 G22 HH22 HG22 HB_21 RA_21 I_21 M_21 NN_21)) | fail)
    generalize x21.heap.size = g11 at *
    refine (C6.out _).mono ?_
    rintro ex x23 ⟨rfl, hb⟩
    have RA_23 := Lib.hid (RA_22.out.keep hb)
    have I_23 := Lib.hid (I_22.out.keep hb)
    have M_23 := Lib.hid (M_22.out.keep hb)
    have NN_23 := Lib.hid (NN_22.out.keep hb)
    have SM_23 := Lib.hid (SM_22.out.keep hb)
    have HB_23 := Lib.hid (HB_22.out.trans (hb.mono HB_22.out.size))
    clear hb RA_22 I_22 M_22 NN_22 SM_22 HB_22
    go_wp2_with fail
    refine (C7.out _).mono ?_
    rintro ex x24 ⟨rfl, hb⟩
    have RA_24 := Lib.hid (RA_23.out.keep hb)
    have I_24 := Lib.hid (I_23.out.keep hb)
    have M_24 := Lib.hid (M_23.out.keep hb)
    have NN_24 := Lib.hid (NN_23.out.keep hb)
    have SM_24 := Lib.hid (SM_23.out.keep hb)
    have HB_24 := Lib.hid (HB_23.out.trans (hb.mono HB_23.out.size))
    clear hb RA_23 I_23 M_23 NN_23 SM_23 HB_23
    go_wp2_with (first | ((with_reducible show wpList _ _ _ (⟨some 12, .alloc 23, _, _, _, _⟩ :: _) _ _); go_must (refine wpList_alloc_row rfl 23 rfl (.agg (zbs 32)) zero23 ?_; intro u25 h1 z1 g1; have H25 := Lib.hid h1; have Z25 := Lib.hid z1; have G25 := Lib.hid g1; clear h1 z1 g1)) | ((with_reducible show wpList _ _ _ (⟨none, .store 23 (.tmp 12) (.tmp 38), _, _, _, _⟩ :: _) _ _); go_must (refine wpList_store_all rfl 23 (.tmp 12) (.tmp 38) rfl (x24.heap.size) rfl (bcs (enc l)).toArray rfl 23 _ (H25.out) (by rw [List.size_toArray, bcs_enc_len]; exact size23) (by rw [List.size_toArray, bcs_enc_len]; rfl) (bcs_one _) ?_; intro v25 hh hg hz; have HH25 := Lib.hid hh; have HG25 := Lib.hid hg; clear hh hg hz; have RA_25 := Lib.hid ((RA_24.out.grown G25.out (by simp)).grown HG25.out (by have := RA_24.out.lt; simp; omega)); have I_25 := Lib.hid ((I_24.out.grown G25.out (by simp)).grown HG25.out (by have := I_24.out.lt; simp; omega)); have M_25 := Lib.hid ((M_24.out.grown G25.out (by simp)).grown HG25.out (by have := M_24.out.lt; simp; omega)); have NN_25 := Lib.hid ((NN_24.out.grown G25.out (by simp)).grown HG25.out (by have := NN_24.out.lt; simp; omega)); have SM_25 := Lib.hid ((SM_24.out.grown G25.out (by simp)).grown HG25.out (by have := SM_24.out.lt; simp; omega)); have LL_25 : Hid (NAt v25 x24.heap.size l) := Lib.hid ⟨23, HH25.out⟩; have HB_25 : Hid (Below w.heap.size w v25) := Lib.hid ((HB_24.out.grown G25.out HB_24.out.size (by simp)).grown HG25.out (by have := HB_24.out.size; have := Z25.out; omega) (fun r hr => by injection hr with hr; have := HB_24.out.size; omega)); clear H25 Z25 G25 HH25 HG25 HB_24 RA_24 I_24 M_24 NN_24 SM_24)) | ((with_reducible show wpList _ _ _ (⟨_, .binOp .rem 35 (.tmp 50) _ 35, _, _, _, _⟩ :: _) _ _); go_must (refine wpList_exec rfl (.int .u32 (kk : Nat)) (exec_bin .rem 35 35 (.tmp 50) _ rfl (.int .u32 (n : Nat)) (.int .u32 9) _ rfl rfl rfl ((run_rem9 n _).trans (by rw [HK.out]))) ?_)) | ((with_reducible show wpList _ _ _ (⟨_, .load 23 (.tmp 3), _, _, _, _⟩ :: _) _ _); go_must (refine wpList_exec rfl (vN A) (exec_load23 (.tmp 3) rfl (w.heap.size) A rfl RA_25.out) ?_)) | ((with_reducible show wpList _ _ _ (⟨_, .load 23 (.tmp 9), _, _, _, _⟩ :: _) _ _); go_must (refine wpList_exec rfl (vN m) (exec_load23 (.tmp 9) rfl (g9) m rfl M_25.out) ?_)) | fail)
    generalize x24.heap.size = g12 at *
    refine (C8.out _).mono ?_
    rintro ex x26 ⟨rfl, hb⟩
    have RA_26 := Lib.hid (RA_25.out.keep hb)
    have I_26 := Lib.hid (I_25.out.keep hb)
    have M_26 := Lib.hid (M_25.out.keep hb)
    have NN_26 := Lib.hid (NN_25.out.keep hb)
    have SM_26 := Lib.hid (SM_25.out.keep hb)
    have LL_26 := Lib.hid (LL_25.out.keep hb)
    have HB_26 := Lib.hid (HB_25.out.trans (hb.mono HB_25.out.size))
    clear hb RA_25 I_25 M_25 NN_25 SM_25 LL_25 HB_25
    go_wp2_with fail
    refine (C6.out _).mono ?_
    rintro ex x27 ⟨rfl, hb⟩
    have RA_27 := Lib.hid (RA_26.out.keep hb)
    have I_27 := Lib.hid (I_26.out.keep hb)
    have M_27 := Lib.hid (M_26.out.keep hb)
    have NN_27 := Lib.hid (NN_26.out.keep hb)
    have SM_27 := Lib.hid (SM_26.out.keep hb)
    have LL_27 := Lib.hid (LL_26.out.keep hb)
    have HB_27 := Lib.hid (HB_26.out.trans (hb.mono HB_26.out.size))
    clear hb RA_26 I_26 M_26 NN_26 SM_26 LL_26 HB_26
    go_wp2_with (first | ((with_reducible show wpList _ _ _ (⟨some 14, .alloc 23, _, _, _, _⟩ :: _) _ _); go_must (refine wpList_alloc_row rfl 23 rfl (.agg (zbs 32)) zero23 ?_; intro u28 h1 z1 g1; have H28 := Lib.hid h1; have Z28 := Lib.hid z1; have G28 := Lib.hid g1; clear h1 z1 g1)) | ((with_reducible show wpList _ _ _ (⟨some 15, .alloc 23, _, _, _, _⟩ :: _) _ _); go_must (refine wpList_alloc_row rfl 23 rfl (.agg (zbs 32)) zero23 ?_; intro u29 h1 z1 g1; have H29 := Lib.hid h1; have Z29 := Lib.hid z1; have G29 := Lib.hid g1; clear h1 z1 g1)) | ((with_reducible show wpList _ _ _ (⟨none, .store 23 (.tmp 14) (.tmp 54), _, _, _, _⟩ :: _) _ _); go_must (refine wpList_store_all rfl 23 (.tmp 14) (.tmp 54) rfl (x27.heap.size) rfl (bcs (enc pw)).toArray rfl 23 _ (ZAt.grown (show ZAt u28 x27.heap.size from H28.out) G29.out (by simp)) (by rw [List.size_toArray, bcs_enc_len]; exact size23) (by rw [List.size_toArray, bcs_enc_len]; rfl) (bcs_one _) ?_; intro v30 hh hg hz; have HH30 := Lib.hid hh; have HG30 := Lib.hid hg; clear hh hg hz)) | ((with_reducible show wpList _ _ _ (⟨none, .store 23 (.tmp 15) (.tmp 55), _, _, _, _⟩ :: _) _ _); go_must (refine wpList_store_all rfl 23 (.tmp 15) (.tmp 55) rfl (u28.heap.size) rfl (bcs (enc 1)).toArray rfl 23 _ (ZAt.grown (show ZAt u29 u28.heap.size from H29.out) HG30.out (by have := Z28.out; simp; omega)) (by rw [List.size_toArray, bcs_enc_len]; exact size23) (by rw [List.size_toArray, bcs_enc_len]; rfl) (bcs_one _) ?_; intro v31 hh hg hz; have HH31 := Lib.hid hh; have HG31 := Lib.hid hg; clear hh hg hz; have RA_31 := Lib.hid ((((RA_27.out.grown G28.out (by simp)).grown G29.out (by simp)).grown HG30.out (by have := RA_27.out.lt; simp; omega)).grown HG31.out (by have := RA_27.out.lt; have := Z28.out; simp; omega)); have I_31 := Lib.hid ((((I_27.out.grown G28.out (by simp)).grown G29.out (by simp)).grown HG30.out (by have := I_27.out.lt; simp; omega)).grown HG31.out (by have := I_27.out.lt; have := Z28.out; simp; omega)); have M_31 := Lib.hid ((((M_27.out.grown G28.out (by simp)).grown G29.out (by simp)).grown HG30.out (by have := M_27.out.lt; simp; omega)).grown HG31.out (by have := M_27.out.lt; have := Z28.out; simp; omega)); have NN_31 := Lib.hid ((((NN_27.out.grown G28.out (by simp)).grown G29.out (by simp)).grown HG30.out (by have := NN_27.out.lt; simp; omega)).grown HG31.out (by have := NN_27.out.lt; have := Z28.out; simp; omega)); have SM_31 := Lib.hid ((((SM_27.out.grown G28.out (by simp)).grown G29.out (by simp)).grown HG30.out (by have := SM_27.out.lt; simp; omega)).grown HG31.out (by have := SM_27.out.lt; have := Z28.out; simp; omega)); have LL_31 := Lib.hid ((((LL_27.out.grown G28.out (by simp)).grown G29.out (by simp)).grown HG30.out (by have := LL_27.out.lt; simp; omega)).grown HG31.out (by have := LL_27.out.lt; have := Z28.out; simp; omega)); have PW_31 : Hid (NAt v31 x27.heap.size pw) := Lib.hid (NAt.grown ⟨23, HH30.out⟩ HG31.out (by have := Z28.out; simp; omega)); have X_31 : Hid (NAt v31 u28.heap.size 1) := Lib.hid ⟨23, HH31.out⟩; have HB_31 : Hid (Below w.heap.size w v31) := Lib.hid ((((HB_27.out.grown G28.out HB_27.out.size (by simp)).grown G29.out (by have := HB_27.out.size; have := Z28.out; omega) (by simp)).grown HG30.out (by have := HB_27.out.size; have := Z28.out; have := Z29.out; omega) (fun r hr => by injection hr with hr; have := HB_27.out.size; omega)).grown HG31.out (by have := HB_27.out.size; have := Z28.out; have := Z29.out; have := HG30.out.size; omega) (fun r hr => by injection hr with hr; have := HB_27.out.size; have := Z28.out; omega)); have HD15 : Hid (w.heap.size ≠ u28.heap.size ∧ g7 ≠ u28.heap.size ∧ g9 ≠ u28.heap.size ∧ g10 ≠ u28.heap.size ∧ g11 ≠ u28.heap.size ∧ g12 ≠ u28.heap.size ∧ x27.heap.size ≠ u28.heap.size) := Lib.hid (by have := Z28.out; have := RA_27.out.lt; have := I_27.out.lt; have := M_27.out.lt; have := NN_27.out.lt; have := SM_27.out.lt; have := LL_27.out.lt; refine ⟨?_, ?_, ?_, ?_, ?_, ?_, ?_⟩ <;> omega); have HW15 : Hid (w.heap.size ≤ u28.heap.size) := Lib.hid (by have := Z28.out; have := HB_27.out.size; omega); clear H28 Z28 G28 H29 Z29 G29 HH30 HG30 HH31 HG31 HB_27 RA_27 I_27 M_27 NN_27 SM_27 LL_27)) | fail)
    generalize x27.heap.size = g14 at *
    generalize u28.heap.size = g15 at *
    have S : Hid (LP w A i m n sm l pw (f 0) g7 g9 g10 g11 g12 g14 g15 v31) := Lib.hid ⟨RA_31.out, I_31.out, M_31.out, NN_31.out, SM_31.out, LL_31.out, PW_31.out, by rw [HF0.out]; exact X_31.out, HB_31.out, HW15.out, HD15.out⟩
    clear RA_31 I_31 M_31 NN_31 SM_31 LL_31 PW_31 X_31 HB_31 HW15 HD15
    go_loopw [16] (fun j wr => ∃ q : Nat, q ≤ kk ∧ j = .int .u32 q ∧ LP w A i m n sm l pw (f q) g7 g9 g10 g11 g12 g14 g15 wr) (fun j _ => kk - (intOf j).toNat)
    case atStart => exact ⟨0, by omega, rfl, S.out⟩
    case round =>
      obtain ⟨q, hq, rfl, hp⟩ := hrel
      have H := Lib.hid hp
      clear hp S
      by_cases hlt : q < kk
      · have hni : (q : Int) < (kk : Int) := by omega
        go_wp2_with (first | ((with_reducible show wpList _ _ _ (⟨_, .load 23 (.tmp 15), _, _, _, _⟩ :: _) _ _); go_must (refine wpList_exec rfl (vN (f q)) (exec_load23 (.tmp 15) rfl (g15) (f q) rfl H.out.x) ?_)) | ((with_reducible show wpList _ _ _ (⟨_, .load 23 (.tmp 14), _, _, _, _⟩ :: _) _ _); go_must (refine wpList_exec rfl (vN pw) (exec_load23 (.tmp 14) rfl (g14) pw rfl H.out.p) ?_)) | fail)
        refine (HF.out q _).mono ?_
        rintro ex x9 ⟨rfl, hb⟩
        have H1 := Lib.hid (H.out.keep hb)
        clear hb H
        obtain ⟨t, ht⟩ := H1.out.x
        have HT := Lib.hid ht
        clear ht
        go_wp2_with (first | ((with_reducible show wpList _ _ _ (⟨none, .store 23 (.tmp 15) (.tmp 63), _, _, _, _⟩ :: _) _ _); go_must (refine wpList_store_all rfl 23 (.tmp 15) (.tmp 63) rfl g15 rfl (bcs (enc (f (q + 1)))).toArray rfl t _ HT.out (by rw [List.size_toArray, bcs_enc_len]; exact size23) (by rw [List.size_toArray, List.size_toArray, bcs_enc_len, bcs_enc_len]) (bcs_one _) ?_; intro x10 hh hg hz; have H2 := Lib.hid (H1.out.set hg ⟨t, hh⟩); clear hh hg hz HT H1)) | fail)
        exact ⟨⟨q + 1, by omega, by have := HKL.out; first | go_num | (congr 1; omega), H2.out⟩, by have := HKL.out; simp [intOf]; omega⟩
      · obtain rfl : q = kk := by omega
        have HFQ := HFK
        rw [HFK.out] at H
        clear HFQ
        have RA_0 := Lib.hid H.out.a
        have I_0 := Lib.hid H.out.i
        have M_0 := Lib.hid H.out.m
        have NN_0 := Lib.hid H.out.n
        have SM_0 := Lib.hid H.out.s
        have LL_0 := Lib.hid H.out.l
        have PW_0 := Lib.hid H.out.p
        have X_0 := Lib.hid H.out.x
        have HB_0 := Lib.hid H.out.bel
        clear H
        go_wp2_with fail
        refine region_wq (by kernel_rfl) (by kernel_rfl) ?_
        refine wq_load rfl (.tmp 7) rfl (g7) i rfl I_0.out ?_
        simp only [Act.put, List.setIfInBounds_toArray, List.set_cons_zero, List.set_cons_succ]
        refine wq_load rfl (.tmp 3) rfl (w.heap.size) A rfl RA_0.out ?_
        simp only [Act.put, List.setIfInBounds_toArray, List.set_cons_zero, List.set_cons_succ]
        refine wq_call rfl 28 [.tmp 64, .tmp 65] #[23, 23] rfl [vN i, vN A] rfl (CF28 _) (vN 1) (fun w => C9.out (by first | trivial | rfl) w) ?_
        simp only [Act.put, List.setIfInBounds_toArray, List.set_cons_zero, List.set_cons_succ]
        refine wq_call rfl 14 [.const (.int .u64 1)] #[30] rfl [.int .u64 1] rfl (CF14 _) (vN 1) C6.out ?_
        simp only [Act.put, List.setIfInBounds_toArray, List.set_cons_zero, List.set_cons_succ]
        refine wq_eq rfl (.tmp 66) (.tmp 67) rfl 1 1 rfl rfl true (eqN_same _) ?_
        simp only [Act.put, List.setIfInBounds_toArray, List.set_cons_zero, List.set_cons_succ]
        refine wq_move rfl (.tmp 68) rfl (.bool true) rfl ?_
        simp only [Act.put, List.setIfInBounds_toArray, List.set_cons_zero, List.set_cons_succ]
        refine wq_load rfl (.tmp 7) rfl (g7) i rfl I_0.out ?_
        simp only [Act.put, List.setIfInBounds_toArray, List.set_cons_zero, List.set_cons_succ]
        refine wq_call rfl 15 [.tmp 70] #[23] rfl [vN i] rfl (CF15 _) (vN rA) (fun w => C10.out (by first | trivial | rfl) w) ?_
        simp only [Act.put, List.setIfInBounds_toArray, List.set_cons_zero, List.set_cons_succ]
        refine wq_load rfl (.tmp 3) rfl (w.heap.size) A rfl RA_0.out ?_
        simp only [Act.put, List.setIfInBounds_toArray, List.set_cons_zero, List.set_cons_succ]
        refine wq_call rfl 11 [.tmp 72] #[23] rfl [vN A] rfl (CF11 _) (vN rA) C2.out ?_
        simp only [Act.put, List.setIfInBounds_toArray, List.set_cons_zero, List.set_cons_succ]
        refine wq_eq rfl (.tmp 71) (.tmp 73) rfl rA rA rfl rfl true (eqN_same _) ?_
        simp only [Act.put, List.setIfInBounds_toArray, List.set_cons_zero, List.set_cons_succ]
        refine wq_pick rfl (.tmp 69) (.tmp 74) (.const (.bool false)) rfl true rfl (.bool true) rfl ?_
        simp only [Act.put, List.setIfInBounds_toArray, List.set_cons_zero, List.set_cons_succ]
        refine wq_move rfl (.tmp 75) rfl (.bool true) rfl ?_
        simp only [Act.put, List.setIfInBounds_toArray, List.set_cons_zero, List.set_cons_succ]
        refine wq_load rfl (.tmp 14) rfl (g14) pw rfl PW_0.out ?_
        simp only [Act.put, List.setIfInBounds_toArray, List.set_cons_zero, List.set_cons_succ]
        refine wq_load rfl (.tmp 3) rfl (w.heap.size) A rfl RA_0.out ?_
        simp only [Act.put, List.setIfInBounds_toArray, List.set_cons_zero, List.set_cons_succ]
        refine wq_load rfl (.tmp 10) rfl (g10) n rfl NN_0.out ?_
        simp only [Act.put, List.setIfInBounds_toArray, List.set_cons_zero, List.set_cons_succ]
        refine wq_call rfl 16 [.tmp 78, .tmp 79] #[23, 23] rfl [vN A, vN n] rfl (CF16 _) (vN pn) C12.out ?_
        simp only [Act.put, List.setIfInBounds_toArray, List.set_cons_zero, List.set_cons_succ]
        refine wq_call rfl 28 [.tmp 77, .tmp 80] #[23, 23] rfl [vN pw, vN pn] rfl (CF28 _) (vN ps) C13.out ?_
        simp only [Act.put, List.setIfInBounds_toArray, List.set_cons_zero, List.set_cons_succ]
        refine wq_load rfl (.tmp 3) rfl (w.heap.size) A rfl RA_0.out ?_
        simp only [Act.put, List.setIfInBounds_toArray, List.set_cons_zero, List.set_cons_succ]
        refine wq_load rfl (.tmp 11) rfl (g11) sm rfl SM_0.out ?_
        simp only [Act.put, List.setIfInBounds_toArray, List.set_cons_zero, List.set_cons_succ]
        refine wq_call rfl 16 [.tmp 82, .tmp 83] #[23, 23] rfl [vN A, vN sm] rfl (CF16 _) (vN ps) C14.out ?_
        simp only [Act.put, List.setIfInBounds_toArray, List.set_cons_zero, List.set_cons_succ]
        refine wq_eq rfl (.tmp 81) (.tmp 84) rfl ps ps rfl rfl true (eqN_same _) ?_
        simp only [Act.put, List.setIfInBounds_toArray, List.set_cons_zero, List.set_cons_succ]
        refine wq_pick rfl (.tmp 76) (.tmp 85) (.const (.bool false)) rfl true rfl (.bool true) rfl ?_
        simp only [Act.put, List.setIfInBounds_toArray, List.set_cons_zero, List.set_cons_succ]
        refine wq_move rfl (.tmp 86) rfl (.bool true) rfl ?_
        simp only [Act.put, List.setIfInBounds_toArray, List.set_cons_zero, List.set_cons_succ]
        refine wq_load rfl (.tmp 14) rfl (g14) pw rfl PW_0.out ?_
        simp only [Act.put, List.setIfInBounds_toArray, List.set_cons_zero, List.set_cons_succ]
        refine wq_move rfl (.tmp 13) rfl (.int .u32 (q : Nat)) rfl ?_
        simp only [Act.put, List.setIfInBounds_toArray, List.set_cons_zero, List.set_cons_succ]
        refine wq_conv rfl (.tmp 89) rfl (q) (by have := HKL.out; omega) rfl ?_
        simp only [Act.put, List.setIfInBounds_toArray, List.set_cons_zero, List.set_cons_succ]
        refine wq_call rfl 14 [.tmp 90] #[30] rfl [.int .u64 (q : Nat)] rfl (CF14 _) (vN q) C15.out ?_
        simp only [Act.put, List.setIfInBounds_toArray, List.set_cons_zero, List.set_cons_succ]
        refine wq_call rfl 16 [.tmp 88, .tmp 91] #[23, 23] rfl [vN pw, vN q] rfl (CF16 _) (vN fk) C16.out ?_
        simp only [Act.put, List.setIfInBounds_toArray, List.set_cons_zero, List.set_cons_succ]
        refine wq_load rfl (.tmp 15) rfl (g15) fk rfl X_0.out ?_
        simp only [Act.put, List.setIfInBounds_toArray, List.set_cons_zero, List.set_cons_succ]
        refine wq_eq rfl (.tmp 92) (.tmp 93) rfl fk fk rfl rfl true (eqN_same _) ?_
        simp only [Act.put, List.setIfInBounds_toArray, List.set_cons_zero, List.set_cons_succ]
        refine wq_pick rfl (.tmp 87) (.tmp 94) (.const (.bool false)) rfl true rfl (.bool true) rfl ?_
        simp only [Act.put, List.setIfInBounds_toArray, List.set_cons_zero, List.set_cons_succ]
        refine wq_move rfl (.tmp 95) rfl (.bool true) rfl ?_
        simp only [Act.put, List.setIfInBounds_toArray, List.set_cons_zero, List.set_cons_succ]
        refine wq_load rfl (.tmp 3) rfl (w.heap.size) A rfl RA_0.out ?_
        simp only [Act.put, List.setIfInBounds_toArray, List.set_cons_zero, List.set_cons_succ]
        refine wq_load rfl (.tmp 12) rfl (g12) l rfl LL_0.out ?_
        simp only [Act.put, List.setIfInBounds_toArray, List.set_cons_zero, List.set_cons_succ]
        refine wq_call rfl 16 [.tmp 97, .tmp 98] #[23, 23] rfl [vN A, vN l] rfl (CF16 _) (vN 1) (fun w => C11.out (by first | trivial | rfl) w) ?_
        simp only [Act.put, List.setIfInBounds_toArray, List.set_cons_zero, List.set_cons_succ]
        refine wq_call rfl 14 [.const (.int .u64 1)] #[30] rfl [.int .u64 1] rfl (CF14 _) (vN 1) C6.out ?_
        simp only [Act.put, List.setIfInBounds_toArray, List.set_cons_zero, List.set_cons_succ]
        refine wq_eq rfl (.tmp 99) (.tmp 100) rfl 1 1 rfl rfl true (eqN_same _) ?_
        simp only [Act.put, List.setIfInBounds_toArray, List.set_cons_zero, List.set_cons_succ]
        refine wq_pick rfl (.tmp 96) (.tmp 101) (.const (.bool false)) rfl true rfl (.bool true) rfl ?_
        simp only [Act.put, List.setIfInBounds_toArray, List.set_cons_zero, List.set_cons_succ]
        refine wq_assign rfl (.tmp 102) rfl (.bool true) rfl ?_
        simp only [Act.put, List.setIfInBounds_toArray, List.set_cons_zero, List.set_cons_succ]
        refine wq_nil ?_
        intro W hb
        have HBW : Hid (Below w.heap.size w W) := HB_0.out.trans (hb.mono HB_0.out.size)
        clear hb HB_0 RA_0 I_0 M_0 NN_0 SM_0 LL_0 PW_0 X_0
        go_wp2
        go_ret
        exact ⟨rfl, HBW.out⟩
  · obtain ⟨hi, hpz⟩ := HZ.out rfl
    have HPZ := Lib.hid hpz
    subst hi
    clear hpz HZ
    go_wp2_with (first | ((with_reducible show wpList _ _ _ (⟨_, .build 23 _, _, _, _, _⟩ :: _) _ _); go_must (refine wpList_exec rfl (vN 0) (exec_build0 rfl) ?_)) | ((with_reducible show wpList _ _ _ (⟨_, .binOp .eql 23 (.tmp 22) (.tmp 23) 23, _, _, _, _⟩ :: _) _ _); go_must (refine wpList_exec rfl (.bool true) (exec_eq23 (.tmp 22) (.tmp 23) rfl rfl rfl (HZA.out _)) ?_)) | ((with_reducible show wpList _ _ _ (⟨_, .convert 35 30 (.tmp 25), _, _, _, _⟩ :: _) _ _); go_must (refine wpList_exec rfl (.int .u64 (m : Nat)) (exec_conv (.tmp 25) rfl (m) (by have := HM.out; omega) rfl) ?_)) | fail)
    refine (C3.out _).mono ?_
    rintro ex x215 ⟨rfl, hb⟩
    have RA_215 := Lib.hid (RA_14.out.keep hb)
    have I_215 := Lib.hid (I_14.out.keep hb)
    have HB_215 := Lib.hid (HB_14.out.trans (hb.mono HB_14.out.size))
    clear hb RA_14 I_14 HB_14
    go_wp2_with (first | ((with_reducible show wpList _ _ _ (⟨_, .convert 35 30 (.tmp 28), _, _, _, _⟩ :: _) _ _); go_must (refine wpList_exec rfl (.int .u64 (n : Nat)) (exec_conv (.tmp 28) rfl (n) (by have := HN.out; omega) rfl) ?_)) | fail)
    refine (C4.out _).mono ?_
    rintro ex x216 ⟨rfl, hb⟩
    have RA_216 := Lib.hid (RA_215.out.keep hb)
    have I_216 := Lib.hid (I_215.out.keep hb)
    have HB_216 := Lib.hid (HB_215.out.trans (hb.mono HB_215.out.size))
    clear hb RA_215 I_215 HB_215
    go_wp2_with (first | ((with_reducible show wpList _ _ _ (⟨some 9, .alloc 23, _, _, _, _⟩ :: _) _ _); go_must (refine wpList_alloc_row rfl 23 rfl (.agg (zbs 32)) zero23 ?_; intro u217 h1 z1 g1; have H217 := Lib.hid h1; have Z217 := Lib.hid z1; have G217 := Lib.hid g1; clear h1 z1 g1)) | ((with_reducible show wpList _ _ _ (⟨some 10, .alloc 23, _, _, _, _⟩ :: _) _ _); go_must (refine wpList_alloc_row rfl 23 rfl (.agg (zbs 32)) zero23 ?_; intro u218 h1 z1 g1; have H218 := Lib.hid h1; have Z218 := Lib.hid z1; have G218 := Lib.hid g1; clear h1 z1 g1)) | ((with_reducible show wpList _ _ _ (⟨none, .store 23 (.tmp 9) (.tmp 27), _, _, _, _⟩ :: _) _ _); go_must (refine wpList_store_all rfl 23 (.tmp 9) (.tmp 27) rfl (x216.heap.size) rfl (bcs (enc m)).toArray rfl 23 _ (ZAt.grown (show ZAt u217 x216.heap.size from H217.out) G218.out (by simp)) (by rw [List.size_toArray, bcs_enc_len]; exact size23) (by rw [List.size_toArray, bcs_enc_len]; rfl) (bcs_one _) ?_; intro v219 hh hg hz; have HH219 := Lib.hid hh; have HG219 := Lib.hid hg; clear hh hg hz)) | ((with_reducible show wpList _ _ _ (⟨none, .store 23 (.tmp 10) (.tmp 30), _, _, _, _⟩ :: _) _ _); go_must (refine wpList_store_all rfl 23 (.tmp 10) (.tmp 30) rfl (u217.heap.size) rfl (bcs (enc n)).toArray rfl 23 _ (ZAt.grown (show ZAt u218 u217.heap.size from H218.out) HG219.out (by have := Z217.out; simp; omega)) (by rw [List.size_toArray, bcs_enc_len]; exact size23) (by rw [List.size_toArray, bcs_enc_len]; rfl) (bcs_one _) ?_; intro v220 hh hg hz; have HH220 := Lib.hid hh; have HG220 := Lib.hid hg; clear hh hg hz; have RA_220 := Lib.hid ((((RA_216.out.grown G217.out (by simp)).grown G218.out (by simp)).grown HG219.out (by have := RA_216.out.lt; simp; omega)).grown HG220.out (by have := RA_216.out.lt; have := Z217.out; simp; omega)); have I_220 := Lib.hid ((((I_216.out.grown G217.out (by simp)).grown G218.out (by simp)).grown HG219.out (by have := I_216.out.lt; simp; omega)).grown HG220.out (by have := I_216.out.lt; have := Z217.out; simp; omega)); have M_220 : Hid (NAt v220 x216.heap.size m) := Lib.hid (NAt.grown ⟨23, HH219.out⟩ HG220.out (by have := Z217.out; simp; omega)); have NN_220 : Hid (NAt v220 u217.heap.size n) := Lib.hid ⟨23, HH220.out⟩; have HB_220 : Hid (Below w.heap.size w v220) := Lib.hid ((((HB_216.out.grown G217.out HB_216.out.size (by simp)).grown G218.out (by have := HB_216.out.size; have := Z217.out; omega) (by simp)).grown HG219.out (by have := HB_216.out.size; have := Z217.out; have := Z218.out; omega) (fun r hr => by injection hr with hr; have := HB_216.out.size; omega)).grown HG220.out (by have := HB_216.out.size; have := Z217.out; have := Z218.out; have := HG219.out.size; omega) (fun r hr => by injection hr with hr; have := HB_216.out.size; have := Z217.out; omega)); clear H217 Z217 G217 H218 Z218 G218 HH219 HG219 HH220 HG220 HB_216 RA_216 I_216)) | ((with_reducible show wpList _ _ _ (⟨_, .convert 35 30 (.tmp 31), _, _, _, _⟩ :: _) _ _); go_must (refine wpList_exec rfl (.int .u64 (m : Nat)) (exec_conv (.tmp 31) rfl (m) (by have := HM.out; omega) rfl) ?_)) | ((with_reducible show wpList _ _ _ (⟨_, .convert 35 30 (.tmp 33), _, _, _, _⟩ :: _) _ _); go_must (refine wpList_exec rfl (.int .u64 (n : Nat)) (exec_conv (.tmp 33) rfl (n) (by have := HN.out; omega) rfl) ?_)) | ((with_reducible show wpList _ _ _ (⟨_, .binOp .add 30 (.tmp 32) (.tmp 34) 30, _, _, _, _⟩ :: _) _ _); go_must (refine wpList_exec rfl (.int .u64 (m + n : Nat)) (exec_bin .add 30 30 (.tmp 32) (.tmp 34) rfl (.int .u64 (m : Nat)) (.int .u64 (n : Nat)) _ rfl rfl rfl (run_add64 m n (by have := HM.out; have := HN.out; omega) _)) ?_)) | fail)
    generalize x216.heap.size = g9 at *
    generalize u217.heap.size = g10 at *
    refine (C5.out _).mono ?_
    rintro ex x221 ⟨rfl, hb⟩
    have RA_221 := Lib.hid (RA_220.out.keep hb)
    have I_221 := Lib.hid (I_220.out.keep hb)
    have M_221 := Lib.hid (M_220.out.keep hb)
    have NN_221 := Lib.hid (NN_220.out.keep hb)
    have HB_221 := Lib.hid (HB_220.out.trans (hb.mono HB_220.out.size))
    clear hb RA_220 I_220 M_220 NN_220 HB_220
    go_wp2_with (first | ((with_reducible show wpList _ _ _ (⟨some 11, .alloc 23, _, _, _, _⟩ :: _) _ _); go_must (refine wpList_alloc_row rfl 23 rfl (.agg (zbs 32)) zero23 ?_; intro u222 h1 z1 g1; have H222 := Lib.hid h1; have Z222 := Lib.hid z1; have G222 := Lib.hid g1; clear h1 z1 g1)) | ((with_reducible show wpList _ _ _ (⟨none, .store 23 (.tmp 11) (.tmp 36), _, _, _, _⟩ :: _) _ _); go_must (refine wpList_store_all rfl 23 (.tmp 11) (.tmp 36) rfl (x221.heap.size) rfl (bcs (enc sm)).toArray rfl 23 _ (H222.out) (by rw [List.size_toArray, bcs_enc_len]; exact size23) (by rw [List.size_toArray, bcs_enc_len]; rfl) (bcs_one _) ?_; intro v222 hh hg hz; have HH222 := Lib.hid hh; have HG222 := Lib.hid hg; clear hh hg hz; have RA_222 := Lib.hid ((RA_221.out.grown G222.out (by simp)).grown HG222.out (by have := RA_221.out.lt; simp; omega)); have I_222 := Lib.hid ((I_221.out.grown G222.out (by simp)).grown HG222.out (by have := I_221.out.lt; simp; omega)); have M_222 := Lib.hid ((M_221.out.grown G222.out (by simp)).grown HG222.out (by have := M_221.out.lt; simp; omega)); have NN_222 := Lib.hid ((NN_221.out.grown G222.out (by simp)).grown HG222.out (by have := NN_221.out.lt; simp; omega)); have SM_222 : Hid (NAt v222 x221.heap.size sm) := Lib.hid ⟨23, HH222.out⟩; have HB_222 : Hid (Below w.heap.size w v222) := Lib.hid ((HB_221.out.grown G222.out HB_221.out.size (by simp)).grown HG222.out (by have := HB_221.out.size; have := Z222.out; omega) (fun r hr => by injection hr with hr; have := HB_221.out.size; omega)); clear H222 Z222 G222 HH222 HG222 HB_221 RA_221 I_221 M_221 NN_221)) | fail)
    generalize x221.heap.size = g11 at *
    refine (C6.out _).mono ?_
    rintro ex x223 ⟨rfl, hb⟩
    have RA_223 := Lib.hid (RA_222.out.keep hb)
    have I_223 := Lib.hid (I_222.out.keep hb)
    have M_223 := Lib.hid (M_222.out.keep hb)
    have NN_223 := Lib.hid (NN_222.out.keep hb)
    have SM_223 := Lib.hid (SM_222.out.keep hb)
    have HB_223 := Lib.hid (HB_222.out.trans (hb.mono HB_222.out.size))
    clear hb RA_222 I_222 M_222 NN_222 SM_222 HB_222
    go_wp2_with fail
    refine (C7.out _).mono ?_
    rintro ex x224 ⟨rfl, hb⟩
    have RA_224 := Lib.hid (RA_223.out.keep hb)
    have I_224 := Lib.hid (I_223.out.keep hb)
    have M_224 := Lib.hid (M_223.out.keep hb)
    have NN_224 := Lib.hid (NN_223.out.keep hb)
    have SM_224 := Lib.hid (SM_223.out.keep hb)
    have HB_224 := Lib.hid (HB_223.out.trans (hb.mono HB_223.out.size))
    clear hb RA_223 I_223 M_223 NN_223 SM_223 HB_223
    go_wp2_with (first | ((with_reducible show wpList _ _ _ (⟨some 12, .alloc 23, _, _, _, _⟩ :: _) _ _); go_must (refine wpList_alloc_row rfl 23 rfl (.agg (zbs 32)) zero23 ?_; intro u225 h1 z1 g1; have H225 := Lib.hid h1; have Z225 := Lib.hid z1; have G225 := Lib.hid g1; clear h1 z1 g1)) | ((with_reducible show wpList _ _ _ (⟨none, .store 23 (.tmp 12) (.tmp 38), _, _, _, _⟩ :: _) _ _); go_must (refine wpList_store_all rfl 23 (.tmp 12) (.tmp 38) rfl (x224.heap.size) rfl (bcs (enc l)).toArray rfl 23 _ (H225.out) (by rw [List.size_toArray, bcs_enc_len]; exact size23) (by rw [List.size_toArray, bcs_enc_len]; rfl) (bcs_one _) ?_; intro v225 hh hg hz; have HH225 := Lib.hid hh; have HG225 := Lib.hid hg; clear hh hg hz; have RA_225 := Lib.hid ((RA_224.out.grown G225.out (by simp)).grown HG225.out (by have := RA_224.out.lt; simp; omega)); have I_225 := Lib.hid ((I_224.out.grown G225.out (by simp)).grown HG225.out (by have := I_224.out.lt; simp; omega)); have M_225 := Lib.hid ((M_224.out.grown G225.out (by simp)).grown HG225.out (by have := M_224.out.lt; simp; omega)); have NN_225 := Lib.hid ((NN_224.out.grown G225.out (by simp)).grown HG225.out (by have := NN_224.out.lt; simp; omega)); have SM_225 := Lib.hid ((SM_224.out.grown G225.out (by simp)).grown HG225.out (by have := SM_224.out.lt; simp; omega)); have LL_225 : Hid (NAt v225 x224.heap.size l) := Lib.hid ⟨23, HH225.out⟩; have HB_225 : Hid (Below w.heap.size w v225) := Lib.hid ((HB_224.out.grown G225.out HB_224.out.size (by simp)).grown HG225.out (by have := HB_224.out.size; have := Z225.out; omega) (fun r hr => by injection hr with hr; have := HB_224.out.size; omega)); clear H225 Z225 G225 HH225 HG225 HB_224 RA_224 I_224 M_224 NN_224 SM_224)) | ((with_reducible show wpList _ _ _ (⟨_, .load 23 (.tmp 7), _, _, _, _⟩ :: _) _ _); go_must (refine wpList_exec rfl (vN 0) (exec_load23 (.tmp 7) rfl (g7) 0 rfl I_225.out) ?_)) | ((with_reducible show wpList _ _ _ (⟨_, .build 23 _, _, _, _, _⟩ :: _) _ _); go_must (refine wpList_exec rfl (vN 0) (exec_build0 rfl) ?_)) | ((with_reducible show wpList _ _ _ (⟨_, .binOp .eql 23 (.tmp 40) (.tmp 41) 23, _, _, _, _⟩ :: _) _ _); go_must (refine wpList_exec rfl (.bool true) (exec_eq23 (.tmp 40) (.tmp 41) rfl rfl rfl (eqN_same 0 _)) ?_)) | ((with_reducible show wpList _ _ _ (⟨_, .load 23 (.tmp 3), _, _, _, _⟩ :: _) _ _); go_must (refine wpList_exec rfl (vN A) (exec_load23 (.tmp 3) rfl (w.heap.size) A rfl RA_225.out) ?_)) | ((with_reducible show wpList _ _ _ (⟨_, .load 23 (.tmp 12), _, _, _, _⟩ :: _) _ _); go_must (refine wpList_exec rfl (vN l) (exec_load23 (.tmp 12) rfl (x224.heap.size) l rfl LL_225.out) ?_)) | fail)
    generalize x224.heap.size = g12 at *
    refine (HPZ.out _).mono ?_
    rintro ex x226 ⟨rfl, hb⟩
    have RA_226 := Lib.hid (RA_225.out.keep hb)
    have I_226 := Lib.hid (I_225.out.keep hb)
    have M_226 := Lib.hid (M_225.out.keep hb)
    have NN_226 := Lib.hid (NN_225.out.keep hb)
    have SM_226 := Lib.hid (SM_225.out.keep hb)
    have LL_226 := Lib.hid (LL_225.out.keep hb)
    have HB_226 := Lib.hid (HB_225.out.trans (hb.mono HB_225.out.size))
    clear hb RA_225 I_225 M_225 NN_225 SM_225 LL_225 HB_225
    go_wp2_with (first | ((with_reducible show wpList _ _ _ (⟨_, .build 23 _, _, _, _, _⟩ :: _) _ _); go_must (refine wpList_exec rfl (vN 0) (exec_build0 rfl) ?_)) | ((with_reducible show wpList _ _ _ (⟨_, .binOp .eql 23 (.tmp 46) (.tmp 47) 23, _, _, _, _⟩ :: _) _ _); go_must (refine wpList_exec rfl (.bool true) (exec_eq23 (.tmp 46) (.tmp 47) rfl rfl rfl (eqN_same 0 _)) ?_)) | fail)
    go_ret
    exact ⟨rfl, HB_226.out⟩

theorem gives_eq {f : FuncId} {args : Array Value} {x y : Nat} {w : World} (e : x = y) (h : Calls Try.prog f args w (Gives (vN x) w)) : Calls Try.prog f args w (Gives (vN y) w) := e ▸ h
theorem zT : 0 < TT := by unfold TT; omega
theorem oT : 1 < TT := by unfold TT; omega
theorem P1 : 1 < PP := by unfold PP; omega
theorem P_big : 340282366920938463463374607431768211456 < PP := by unfold PP; omega
theorem pow_zero_mod (A q : Nat) (hq : 0 < q) (h : A % PP = 0) : A ^ q % PP = 0 := by
  rw [Nat.pow_mod, h, Nat.zero_pow hq, Nat.zero_mod]

theorem walkN (A m n : Nat) (hA : A < TT) (hm : m < 4294967296) (hn : n < 4294967296) (w : World) : Calls Try.prog 6 #[vN A, .int .u32 (m : Nat), .int .u32 (n : Nat)] w (Gives (.bool true) w) := by
  obtain ⟨q, hq⟩ := q_ex
  have hb := P_big
  have hb2 := PP_lt
  have hmT : m < TT := by omega
  have hnT : n < TT := by omega
  have hI := Inv_any q hq A hA
  have hII := Inv_any q hq (A ^ q % PP) (modT _)
  have hPl : ∀ w, Calls Try.prog 16 #[vN A, vN ((PP - 1 % PP) % PP)] w (Gives (vN (A ^ ((PP - 1 % PP) % PP) % PP)) w) := fun w => Pow_any A _ hA (modT _) w
  have hl : (PP - 1 % PP) % PP = PP - 1 := by
    have := P1
    rw [Nat.mod_eq_of_lt P1, Nat.mod_eq_of_lt (by omega)]
  have hN1 : ∀ w, Calls Try.prog 13 #[vN 1] w (Gives (vN (PP - 1)) w) := fun w => gives_eq hl (Neg_any 1 oT w)
  rw [hl] at hPl
  have hPpos : 0 < PP - 1 := by have := P1; omega
  have hfer : A % PP ≠ 0 → A ^ (PP - 1) % PP = 1 := fun h => fermat1 prP A (fun hd => h (Nat.mod_eq_zero_of_dvd hd))
  have hzero : A % PP = 0 → A ^ (PP - 1) % PP = 0 := fun h => pow_zero_mod A _ hPpos h
  generalize PP - 1 = l at *
  have hinv : A % PP ≠ 0 → A ^ q % PP * A % PP = 1 := fun h => by rw [Nat.mul_comm]; exact inv_mul q hq A h
  have hback : A % PP ≠ 0 → (A ^ q % PP) ^ q % PP = A % PP := fun h => by
    have h1 := hinv h
    have hi : ¬ PP ∣ A ^ q % PP := fun hd => by
      obtain ⟨c, hc⟩ := hd
      rw [hc, Nat.mul_assoc, Nat.mul_mod_right] at h1
      omega
    have h2 := inv_mul q hq (A ^ q % PP) (fun hz => hi (Nat.dvd_of_mod_eq_zero hz))
    have h3 := cancel2 prP hi (h2.trans h1.symm)
    rw [Nat.mod_mod] at h3
    exact h3
  have hi0 : A % PP = 0 → A ^ q % PP = 0 := fun h => pow_zero_mod A q (by omega) h
  have IT : A ^ q % PP < TT := modT _
  generalize A ^ q % PP = i at *
  have hps : A ^ m % PP * (A ^ n % PP) % PP = A ^ (m + n) % PP := by rw [← Nat.mul_mod, Nat.pow_add]
  have hpw : A ^ m % PP < TT := modT _
  have hPm : ∀ w, Calls Try.prog 16 #[vN A, vN m] w (Gives (vN (A ^ m % PP)) w) := fun w => Pow_any A m hA hmT w
  have hPn : ∀ w, Calls Try.prog 16 #[vN A, vN n] w (Gives (vN (A ^ n % PP)) w) := fun w => Pow_any A n hA hnT w
  have hPs : ∀ w, Calls Try.prog 16 #[vN A, vN (m + n)] w (Gives (vN (A ^ (m + n) % PP)) w) := fun w => Pow_any A (m + n) hA (by omega) w
  have hpn : A ^ n % PP < TT := modT _
  generalize A ^ (m + n) % PP = ps at *
  generalize A ^ m % PP = pw at *
  generalize A ^ n % PP = pn at *
  have hk9 : n % 9 < 9 := Nat.mod_lt _ (by omega)
  have nz : decide (A % PP = 0) = false → A % PP ≠ 0 := fun h => by rwa [decide_eq_false_iff_not] at h
  have hF : ∀ j w, Calls Try.prog 28 #[vN (pw ^ j % PP), vN pw] w (Gives (vN (pw ^ (j + 1) % PP)) w) := fun j w => gives_eq (by rw [Nat.mod_mul_mod, ← Nat.pow_succ]) (Mul_any _ pw (modT _) hpw w)
  have hFK : ∀ w, Calls Try.prog 16 #[vN pw, vN (n % 9)] w (Gives (vN (pw ^ (n % 9) % PP)) w) := fun w => Pow_any pw _ hpw (by omega) w
  generalize hkk : n % 9 = kk at *
  exact powers_core A i (A % PP) m n (m + n) l pw pn ps kk (pw ^ kk % PP) (fun j => pw ^ j % PP) (decide (A % PP = 0)) w
    (Lib.hid lives_any) (Lib.hid hI) (Lib.hid fun w => Rest_any A hA w) (Lib.hid fun w => Of_any m (by omega) w) (Lib.hid fun w => Of_any n (by omega) w) (Lib.hid fun w => Of_any (m + n) (by omega) w) (Lib.hid fun w => Of_any 1 (by omega) w) (Lib.hid hN1)
    (Lib.hid hPm) (Lib.hid fun h w => gives_eq (hinv (nz h)) (Mul_any i A IT hA w)) (Lib.hid fun h w => gives_eq (hback (nz h)) (hII w)) (Lib.hid fun h w => gives_eq (hfer (nz h)) (hPl w))
    (Lib.hid hPn) (Lib.hid fun w => gives_eq hps (Mul_any pw pn hpw hpn w)) (Lib.hid hPs) (Lib.hid fun w => Of_any kk (by omega) w) (Lib.hid hFK)
    (Lib.hid fun w => eqN _ _ (modT A) zT w) (Lib.hid fun h => ⟨hi0 (by simpa using h), fun w => gives_eq (hzero (by simpa using h)) (hPl w)⟩) (Lib.hid (by show pw ^ 0 % PP = 1; rw [Nat.pow_zero]; exact Nat.mod_eq_of_lt P1)) (Lib.hid rfl) (Lib.hid hF) (Lib.hid hm) (Lib.hid hn) (Lib.hid hkk) (Lib.hid hk9)

theorem walk (z0 : List UInt8) (a1 : Int) (a2 : Int) (w : World) (w0 : z0.length = 32) (w1 : (Lit.int .u32 a1).wf = true) (w2 : (Lit.int .u32 a2).wf = true) :
    Calls Try.prog 6 #[.agg (bcs z0).toArray, .int .u32 a1, .int .u32 a2] w fun e w' => e = .returned (.bool true) ∧ Below w.heap.size w w' := by
  obtain ⟨A, hA, eA⟩ := bytes_num z0 w0
  have b1 := bounds_u32 w1
  have b2 := bounds_u32 w2
  obtain ⟨m, rfl⟩ := Int.eq_ofNat_of_zero_le b1.1
  obtain ⟨n, rfl⟩ := Int.eq_ofNat_of_zero_le b2.1
  rw [eA]
  exact walkN A m n hA (by omega) (by omega) w

set_option maxRecDepth 100000 in
theorem lifted (os : Os) (started : os.Started) (H : Type) (enc : TypeId × Value → H) :
    ReturnsInHanded {} Try.checked os 6 .any (Rows.fieldPowersSpec.pre6 enc Try.prog Try.f6 Rows.fieldPowersRow.domain false) (Rows.fieldPowersSpec.post enc Try.prog Try.f6 false true false false) := by
  refine returnsInHanded_of_change (C := Try.checked) own started (by kernel_rfl) Try.func6
    (ChangeSpec.witness6 (enc := enc) (C := Try.checked) false ⟨#[], #[.agg (Array.replicate 32 (.int .u8 0)), .int .u32 0, .int .u32 0], []⟩ 8 (by kernel_rfl) (by kernel_rfl) (by kernel_rfl) (by kernel_rfl)) ?_
  intro W base args ds gs before hval0 hW hcnd _
  have hval : ∀ (j : Nat) t v, Try.f6.params[j]? = some t → args[j]? = some v → Value.okWide Try.prog W .any base t v := hval0
  have hW' := hW
  obtain ⟨p, q, hA0, hV, rfl, hfz, hnd⟩ := hW
  have hA : DataW.TrodAll enc Try.prog W 0 (fun _ => true) true Try.f6.params.toList args.toList ds p := hA0
  rw [Try.params6] at hA hval
  obtain ⟨v0, vs0, d0, ds0, p0, q0, hargs, rfl, rfl, h0, r0⟩ := trodAll_cons hA
  obtain ⟨v1, vs1, d1, ds1, p1, q1, rfl, rfl, rfl, h1, r1⟩ := trodAll_cons r0
  obtain ⟨v2, vs2, d2, ds2, p2, q2, rfl, rfl, rfl, h2, r2⟩ := trodAll_cons r1
  obtain ⟨rfl, rfl, rfl⟩ := trodAll_nil r2
  obtain rfl : args = #[v0, v1, v2] := by cases args; simp_all
  obtain ⟨rfl, rfl⟩ := trodVars_none hV
  have k0 := h0
  have lt0 : ∀ x ∈ p0, x.block < W.heap.size := by obtain ⟨m, hm⟩ := k0; exact DataW.trod_lt m _ _ _ hm
  obtain ⟨z0, w0, rfl⟩ := open_arr Try.underlying23 Try.underlying5 (by kernel_rfl) (by kernel_rfl) (hval 0 23 v0 rfl rfl) h0
  obtain ⟨a1, rfl, rfl, rfl, w1⟩ := open_int Try.underlying35 (hval 1 35 v1 rfl rfl) h1
  obtain ⟨a2, rfl, rfl, rfl, w2⟩ := open_int Try.underlying35 (hval 2 35 v2 rfl rfl) h2
  clear hA0 hval0
  refine (walk z0 a1 a2 W w0 w1 w2).mono fun e W' ⟨he, bel⟩ => ?_
  subst he
  exact ⟨_, rfl, _, _, _, [], _, [], hW', trodAll_mk1 (shut_bool Try.underlying4 _), (trodAll_cons_mk (Below.trod laidOut (by kernel_rfl) (of_decide_eq_true (by kernel_rfl)) k0 bel lt0) (trodAll_cons_mk (shut_int Try.underlying35 w1) (trodAll_cons_mk (shut_int Try.underlying35 w2) trodAll_mk0))), rfl, bel.frame _, fun h => by cases h⟩

theorem over : Rows.fieldPowersRow.holds Try.pinned (OpenSpec.ofChange Rows.fieldPowersSpec) :=
  OpenClaim.holds_of_wide 6 Try.f6 rfl rfl rfl rfl rfl rfl rfl ⟨rfl, rfl, rfl, rfl, rfl⟩ rfl rfl rfl rfl rfl (by kernel_rfl) Try.func6 (by kernel_rfl)
    (of_decide_eq_true (by kernel_rfl)) (by unfold Func.isWrapper; first | (rw [if_pos (by decide +kernel)]; kernel_rfl) | (rw [if_neg (by decide +kernel)]; exact ⟨rfl, rfl⟩))
    (fun os started H enc _ => lifted os started H enc)

/-- The statement. -/
theorem proved : Rows.FieldPowersSaid := over
#print axioms proved
end Go.Proofs.Ytlkjengcmlfknaa.fieldPowers
