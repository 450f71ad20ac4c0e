/- It is proved that FieldCalls returns true for any three numbers and any integer of 64 bits: each function of package field returns what the document says. Conditions: none. -/
import Derived.Test.YtgdimnbdnepbgaaRows
import Derived.Test.YtgdimnbdnepbgaaK6
import Derived.ProofKit
import Derived.OpenShut
import Derived.ChangeOld
namespace Go.Proofs.Ytgdimnbdnepbgaa.fieldCalls
open Go.ChangeShapes Go.WideShapes Go.ChangeAt Go.RowKit
set_option linter.unusedVariables false

theorem own : ownKnob Try.prog.godebug = none := by kernel_rfl
theorem laidOut : laidOutB Try.prog = true := by kernel_rfl
set_option linter.unusedSimpArgs false

set_option maxHeartbeats 8000000 in
set_option maxRecDepth 100000 in
theorem calls_core (A B E n x r s d m p q i : Nat) (k c o e : Bool) (w : World)
    (C0 : Hid (∀ w, Calls Try.prog 10 #[] w (Gives (.bool true) w)))
    (C1 : Hid (∀ w, Calls Try.prog 11 #[vN A] w (Gives (.tuple #[vN x, .bool k]) w)))
    (C2 : Hid (∀ w, Calls Try.prog 12 #[vN A] w (Gives (.tuple #[vN x, .bool k]) w)))
    (C3 : Hid (∀ w, Calls Try.prog 13 #[vN A] w (Gives (vN r) w)))
    (C4 : Hid (∀ w, Calls Try.prog 14 #[vN A] w (Gives (vN r) w)))
    (C5 : Hid (∀ w, Calls Try.prog 15 #[vN A] w (Gives (.bool c) w)))
    (C6 : Hid (∀ w, Calls Try.prog 16 #[vN A] w (Gives (.bool c) w)))
    (C7 : Hid (∀ w, Calls Try.prog 17 #[.int .u64 (n : Nat)] w (Gives (vN n) w)))
    (C8 : Hid (∀ w, Calls Try.prog 18 #[.int .u64 (n : Nat)] w (Gives (vN n) w)))
    (C9 : Hid (∀ w, Calls Try.prog 19 #[vN A, vN B] w (Gives (vN s) w)))
    (C10 : Hid (∀ w, Calls Try.prog 20 #[vN A, vN B] w (Gives (vN s) w)))
    (C11 : Hid (∀ w, Calls Try.prog 21 #[vN A, vN B] w (Gives (vN d) w)))
    (C12 : Hid (∀ w, Calls Try.prog 22 #[vN A, vN B] w (Gives (vN d) w)))
    (C13 : Hid (∀ w, Calls Try.prog 23 #[vN A] w (Gives (vN m) w)))
    (C14 : Hid (∀ w, Calls Try.prog 24 #[vN A] w (Gives (vN m) w)))
    (C15 : Hid (∀ w, Calls Try.prog 25 #[vN A, vN B] w (Gives (vN p) w)))
    (C16 : Hid (∀ w, Calls Try.prog 26 #[vN A, vN B] w (Gives (vN p) w)))
    (C17 : Hid (∀ w, Calls Try.prog 27 #[vN A, vN E] w (Gives (vN q) w)))
    (C18 : Hid (∀ w, Calls Try.prog 28 #[vN A, vN E] w (Gives (vN q) w)))
    (C19 : Hid (∀ w, Calls Try.prog 29 #[vN A] w (Gives (vN i) w)))
    (C20 : Hid (∀ w, Calls Try.prog 30 #[vN A] w (Gives (vN i) w)))
    (C21 : Hid (∀ w, Calls Try.prog 31 #[vN A] w (Gives (.bool o) w)))
    (C22 : Hid (∀ w, Calls Try.prog 32 #[vN A] w (Gives (.bool o) w)))
    (C23 : Hid (∀ w, Calls Try.prog 33 #[vN A, vN B] w (Gives (.bool e) w)))
    (C24 : Hid (∀ w, Calls Try.prog 34 #[vN A, vN B] w (Gives (.bool e) w))) :
    Calls Try.prog 3 #[vN A, vN B, vN E, .int .u64 (n : Nat)] w (Gives (.bool true) w) := by
  go_enter Try.func3, Try.ntmps3
  go_wp2_with (first | ((with_reducible show wpList _ _ _ (⟨some 4, .box 23 (.tmp 0), _, _, _, _⟩ :: _) _ _); go_must (refine wpList_box_row rfl 23 (.tmp 0) rfl (bcs (enc A)).toArray rfl ?_; intro w1 h1 z1 g1; have H1 := Lib.hid h1; have Z1 := Lib.hid z1; have G1 := Lib.hid g1; clear h1 z1 g1)) | ((with_reducible show wpList _ _ _ (⟨some 5, .box 23 (.tmp 1), _, _, _, _⟩ :: _) _ _); go_must (refine wpList_box_row rfl 23 (.tmp 1) rfl (bcs (enc B)).toArray rfl ?_; intro w2 h1 z1 g1; have H2 := Lib.hid h1; have Z2 := Lib.hid z1; have G2 := Lib.hid g1; clear h1 z1 g1)) | ((with_reducible show wpList _ _ _ (⟨some 6, .box 23 (.tmp 2), _, _, _, _⟩ :: _) _ _); go_must (refine wpList_box_row rfl 23 (.tmp 2) rfl (bcs (enc E)).toArray rfl ?_; intro w3 h1 z1 g1; have H3 := Lib.hid h1; have Z3 := Lib.hid z1; have G3 := Lib.hid g1; clear h1 z1 g1)) | fail)
  have RA_0 : Hid (NAt w3 w.heap.size A) := (NAt.grown ⟨23, H1.out⟩ G2.out (by simp)).grown G3.out (by simp)
  have RB_0 : Hid (NAt w3 (w.heap.size + 1) B) := by
    have h : NAt w2 w1.heap.size B := ⟨23, H2.out⟩
    rw [Z1.out] at h
    exact h.grown G3.out (by simp)
  have RE_0 : Hid (NAt w3 (w.heap.size + 2) E) := by
    have h : NAt w3 w2.heap.size E := ⟨23, H3.out⟩
    rw [Z2.out, Z1.out] at h
    exact h
  have HB_0 : Hid (Below w.heap.size w w3) := (below_of_grownBy G1.out).trans (((below_of_grownBy G2.out).mono (by have := Z1.out; omega)).trans ((below_of_grownBy G3.out).mono (by have := Z1.out; have := Z2.out; omega)))
  rw [show w2.heap.size = w.heap.size + 2 from by rw [Z2.out, Z1.out], show w1.heap.size = w.heap.size + 1 from Z1.out]
  clear H1 Z1 G1 H2 Z2 G2 H3 Z3 G3
  refine (C0.out _).mono ?_
  rintro ex x11 ⟨rfl, hb⟩
  have RA_11 := Lib.hid (RA_0.out.keep hb)
  have RB_11 := Lib.hid (RB_0.out.keep hb)
  have RE_11 := Lib.hid (RE_0.out.keep hb)
  have HB_11 := Lib.hid (HB_0.out.trans (hb.mono HB_0.out.size))
  clear hb RA_0 RB_0 RE_0 HB_0
  go_wp2_with (first | ((with_reducible show wpList _ _ _ (⟨_, .load 23 (.tmp 4), _, _, _, _⟩ :: _) _ _); go_must (refine wpList_exec rfl (vN A) (exec_load23 (.tmp 4) rfl (w.heap.size) A rfl RA_11.out) ?_)) | fail)
  refine (C1.out _).mono ?_
  rintro ex x12 ⟨rfl, hb⟩
  have RA_12 := Lib.hid (RA_11.out.keep hb)
  have RB_12 := Lib.hid (RB_11.out.keep hb)
  have RE_12 := Lib.hid (RE_11.out.keep hb)
  have HB_12 := Lib.hid (HB_11.out.trans (hb.mono HB_11.out.size))
  clear hb RA_11 RB_11 RE_11 HB_11
  go_wp2_with (first | ((with_reducible show wpList _ _ _ (⟨some 9, .alloc 23, _, _, _, _⟩ :: _) _ _); go_must (refine wpList_alloc_row rfl 23 rfl (.agg (zbs 32)) zero23 ?_; intro u13 h1 z1 g1; have H13 := Lib.hid h1; have Z13 := Lib.hid z1; have G13 := Lib.hid g1; clear h1 z1 g1)) | ((with_reducible show wpList _ _ _ (⟨none, .store 23 (.tmp 9) (.tmp 18), _, _, _, _⟩ :: _) _ _); go_must (refine wpList_store_all rfl 23 (.tmp 9) (.tmp 18) rfl (x12.heap.size) rfl (bcs (enc x)).toArray rfl 23 _ (H13.out) (by rw [List.size_toArray, bcs_enc_len]; exact size23) (by rw [List.size_toArray, bcs_enc_len]; rfl) (bcs_one _) ?_; intro v13 hh hg hz; have HH13 := Lib.hid hh; have HG13 := Lib.hid hg; clear hh hg hz; have RA_13 := Lib.hid ((RA_12.out.grown G13.out (by simp)).grown HG13.out (by have := RA_12.out.lt; simp; omega)); have RB_13 := Lib.hid ((RB_12.out.grown G13.out (by simp)).grown HG13.out (by have := RB_12.out.lt; simp; omega)); have RE_13 := Lib.hid ((RE_12.out.grown G13.out (by simp)).grown HG13.out (by have := RE_12.out.lt; simp; omega)); have S9_13 : Hid (NAt v13 x12.heap.size x) := Lib.hid ⟨23, HH13.out⟩; have HB_13 : Hid (Below w.heap.size w v13) := Lib.hid ((HB_12.out.grown G13.out HB_12.out.size (by simp)).grown HG13.out (by have := HB_12.out.size; have := Z13.out; omega) (fun r hr => by injection hr with hr; have := HB_12.out.size; omega)); clear H13 Z13 G13 HH13 HG13 HB_12 RA_12 RB_12 RE_12)) | ((with_reducible show wpList _ _ _ (⟨_, .load 23 (.tmp 4), _, _, _, _⟩ :: _) _ _); go_must (refine wpList_exec rfl (vN A) (exec_load23 (.tmp 4) rfl (w.heap.size) A rfl RA_13.out) ?_)) | fail)
  generalize x12.heap.size = g9 at *
  refine (C2.out _).mono ?_
  rintro ex x14 ⟨rfl, hb⟩
  have RA_14 := Lib.hid (RA_13.out.keep hb)
  have RB_14 := Lib.hid (RB_13.out.keep hb)
  have RE_14 := Lib.hid (RE_13.out.keep hb)
  have S9_14 := Lib.hid (S9_13.out.keep hb)
  have HB_14 := Lib.hid (HB_13.out.trans (hb.mono HB_13.out.size))
  clear hb RA_13 RB_13 RE_13 S9_13 HB_13
  go_wp2_with (first | ((with_reducible show wpList _ _ _ (⟨some 11, .alloc 23, _, _, _, _⟩ :: _) _ _); go_must (refine wpList_alloc_row rfl 23 rfl (.agg (zbs 32)) zero23 ?_; intro u15 h1 z1 g1; have H15 := Lib.hid h1; have Z15 := Lib.hid z1; have G15 := Lib.hid g1; clear h1 z1 g1)) | ((with_reducible show wpList _ _ _ (⟨none, .store 23 (.tmp 11) (.tmp 23), _, _, _, _⟩ :: _) _ _); go_must (refine wpList_store_all rfl 23 (.tmp 11) (.tmp 23) rfl (x14.heap.size) rfl (bcs (enc x)).toArray rfl 23 _ (H15.out) (by rw [List.size_toArray, bcs_enc_len]; exact size23) (by rw [List.size_toArray, bcs_enc_len]; rfl) (bcs_one _) ?_; intro v15 hh hg hz; have HH15 := Lib.hid hh; have HG15 := Lib.hid hg; clear hh hg hz; have RA_15 := Lib.hid ((RA_14.out.grown G15.out (by simp)).grown HG15.out (by have := RA_14.out.lt; simp; omega)); have RB_15 := Lib.hid ((RB_14.out.grown G15.out (by simp)).grown HG15.out (by have := RB_14.out.lt; simp; omega)); have RE_15 := Lib.hid ((RE_14.out.grown G15.out (by simp)).grown HG15.out (by have := RE_14.out.lt; simp; omega)); have S9_15 := Lib.hid ((S9_14.out.grown G15.out (by simp)).grown HG15.out (by have := S9_14.out.lt; simp; omega)); have S11_15 : Hid (NAt v15 x14.heap.size x) := Lib.hid ⟨23, HH15.out⟩; have HB_15 : Hid (Below w.heap.size w v15) := Lib.hid ((HB_14.out.grown G15.out HB_14.out.size (by simp)).grown HG15.out (by have := HB_14.out.size; have := Z15.out; omega) (fun r hr => by injection hr with hr; have := HB_14.out.size; omega)); clear H15 Z15 G15 HH15 HG15 HB_14 RA_14 RB_14 RE_14 S9_14)) | fail)
  generalize x14.heap.size = g11 at *
  refine region_wq2 (by kernel_rfl) (by kernel_rfl) (by kernel_rfl) ?_
  refine wq_load rfl (.tmp 9) rfl (g9) x rfl S9_15.out ?_
  simp only [Act.put, List.setIfInBounds_toArray, List.set_cons_zero, List.set_cons_succ]
  refine wq_load rfl (.tmp 11) rfl (g11) x rfl S11_15.out ?_
  simp only [Act.put, List.setIfInBounds_toArray, List.set_cons_zero, List.set_cons_succ]
  refine wq_eq rfl (.tmp 25) (.tmp 26) rfl x x rfl rfl true (eqN_same _) ?_
  simp only [Act.put, List.setIfInBounds_toArray, List.set_cons_zero, List.set_cons_succ]
  refine wq_move rfl (.tmp 27) rfl (.bool true) rfl ?_
  simp only [Act.put, List.setIfInBounds_toArray, List.set_cons_zero, List.set_cons_succ]
  refine wq_move rfl (.tmp 10) rfl (.bool k) rfl ?_
  simp only [Act.put, List.setIfInBounds_toArray, List.set_cons_zero, List.set_cons_succ]
  refine wq_move rfl (.tmp 12) rfl (.bool k) rfl ?_
  simp only [Act.put, List.setIfInBounds_toArray, List.set_cons_zero, List.set_cons_succ]
  refine wq_eqb (P := Try.prog) rfl (.tmp 29) (.tmp 30) rfl k k true rfl rfl (beq_self_eq_true _) ?_
  simp only [Act.put, List.setIfInBounds_toArray, List.set_cons_zero, List.set_cons_succ]
  refine wq_pick rfl (.tmp 28) (.tmp 31) (.const (.bool false)) rfl true rfl (.bool true) rfl ?_
  simp only [Act.put, List.setIfInBounds_toArray, List.set_cons_zero, List.set_cons_succ]
  refine wq_move rfl (.tmp 32) rfl (.bool true) rfl ?_
  simp only [Act.put, List.setIfInBounds_toArray, List.set_cons_zero, List.set_cons_succ]
  refine wq_load rfl (.tmp 4) rfl (w.heap.size) A rfl RA_15.out ?_
  simp only [Act.put, List.setIfInBounds_toArray, List.set_cons_zero, List.set_cons_succ]
  refine wq_call rfl 13 [.tmp 34] #[23] rfl [vN A] rfl (CG13 _) (vN r) C3.out ?_
  simp only [Act.put, List.setIfInBounds_toArray, List.set_cons_zero, List.set_cons_succ]
  refine wq_load rfl (.tmp 4) rfl (w.heap.size) A rfl RA_15.out ?_
  simp only [Act.put, List.setIfInBounds_toArray, List.set_cons_zero, List.set_cons_succ]
  refine wq_call rfl 14 [.tmp 36] #[23] rfl [vN A] rfl (CG14 _) (vN r) C4.out ?_
  simp only [Act.put, List.setIfInBounds_toArray, List.set_cons_zero, List.set_cons_succ]
  refine wq_eq rfl (.tmp 35) (.tmp 37) rfl r r rfl rfl true (eqN_same _) ?_
  simp only [Act.put, List.setIfInBounds_toArray, List.set_cons_zero, List.set_cons_succ]
  refine wq_pick rfl (.tmp 33) (.tmp 38) (.const (.bool false)) rfl true rfl (.bool true) rfl ?_
  simp only [Act.put, List.setIfInBounds_toArray, List.set_cons_zero, List.set_cons_succ]
  refine wq_move rfl (.tmp 39) rfl (.bool true) rfl ?_
  simp only [Act.put, List.setIfInBounds_toArray, List.set_cons_zero, List.set_cons_succ]
  refine wq_load rfl (.tmp 4) rfl (w.heap.size) A rfl RA_15.out ?_
  simp only [Act.put, List.setIfInBounds_toArray, List.set_cons_zero, List.set_cons_succ]
  refine wq_call rfl 15 [.tmp 41] #[23] rfl [vN A] rfl (CG15 _) (.bool c) C5.out ?_
  simp only [Act.put, List.setIfInBounds_toArray, List.set_cons_zero, List.set_cons_succ]
  refine wq_load rfl (.tmp 4) rfl (w.heap.size) A rfl RA_15.out ?_
  simp only [Act.put, List.setIfInBounds_toArray, List.set_cons_zero, List.set_cons_succ]
  refine wq_call rfl 16 [.tmp 43] #[23] rfl [vN A] rfl (CG16 _) (.bool c) C6.out ?_
  simp only [Act.put, List.setIfInBounds_toArray, List.set_cons_zero, List.set_cons_succ]
  refine wq_eqb (P := Try.prog) rfl (.tmp 42) (.tmp 44) rfl c c true rfl rfl (beq_self_eq_true _) ?_
  simp only [Act.put, List.setIfInBounds_toArray, List.set_cons_zero, List.set_cons_succ]
  refine wq_pick rfl (.tmp 40) (.tmp 45) (.const (.bool false)) rfl true rfl (.bool true) rfl ?_
  simp only [Act.put, List.setIfInBounds_toArray, List.set_cons_zero, List.set_cons_succ]
  refine wq_move rfl (.tmp 46) rfl (.bool true) rfl ?_
  simp only [Act.put, List.setIfInBounds_toArray, List.set_cons_zero, List.set_cons_succ]
  refine wq_move rfl (.tmp 3) rfl (.int .u64 (n : Nat)) rfl ?_
  simp only [Act.put, List.setIfInBounds_toArray, List.set_cons_zero, List.set_cons_succ]
  refine wq_call rfl 17 [.tmp 48] #[24] rfl [.int .u64 (n : Nat)] rfl (CG17 _) (vN n) C7.out ?_
  simp only [Act.put, List.setIfInBounds_toArray, List.set_cons_zero, List.set_cons_succ]
  refine wq_move rfl (.tmp 3) rfl (.int .u64 (n : Nat)) rfl ?_
  simp only [Act.put, List.setIfInBounds_toArray, List.set_cons_zero, List.set_cons_succ]
  refine wq_call rfl 18 [.tmp 50] #[24] rfl [.int .u64 (n : Nat)] rfl (CG18 _) (vN n) C8.out ?_
  simp only [Act.put, List.setIfInBounds_toArray, List.set_cons_zero, List.set_cons_succ]
  refine wq_eq rfl (.tmp 49) (.tmp 51) rfl n n rfl rfl true (eqN_same _) ?_
  simp only [Act.put, List.setIfInBounds_toArray, List.set_cons_zero, List.set_cons_succ]
  refine wq_pick rfl (.tmp 47) (.tmp 52) (.const (.bool false)) rfl true rfl (.bool true) rfl ?_
  simp only [Act.put, List.setIfInBounds_toArray, List.set_cons_zero, List.set_cons_succ]
  refine wq_move rfl (.tmp 53) rfl (.bool true) rfl ?_
  simp only [Act.put, List.setIfInBounds_toArray, List.set_cons_zero, List.set_cons_succ]
  as_aux_lemma =>
    refine wq_load rfl (.tmp 4) rfl (w.heap.size) A rfl RA_15.out ?_
    simp only [Act.put, List.setIfInBounds_toArray, List.set_cons_zero, List.set_cons_succ]
    refine wq_load rfl (.tmp 5) rfl (w.heap.size + 1) B rfl RB_15.out ?_
    simp only [Act.put, List.setIfInBounds_toArray, List.set_cons_zero, List.set_cons_succ]
    refine wq_call rfl 19 [.tmp 55, .tmp 56] #[23, 23] rfl [vN A, vN B] rfl (CG19 _) (vN s) C9.out ?_
    simp only [Act.put, List.setIfInBounds_toArray, List.set_cons_zero, List.set_cons_succ]
    refine wq_load rfl (.tmp 4) rfl (w.heap.size) A rfl RA_15.out ?_
    simp only [Act.put, List.setIfInBounds_toArray, List.set_cons_zero, List.set_cons_succ]
    refine wq_load rfl (.tmp 5) rfl (w.heap.size + 1) B rfl RB_15.out ?_
    simp only [Act.put, List.setIfInBounds_toArray, List.set_cons_zero, List.set_cons_succ]
    refine wq_call rfl 20 [.tmp 58, .tmp 59] #[23, 23] rfl [vN A, vN B] rfl (CG20 _) (vN s) C10.out ?_
    simp only [Act.put, List.setIfInBounds_toArray, List.set_cons_zero, List.set_cons_succ]
    refine wq_eq rfl (.tmp 57) (.tmp 60) rfl s s rfl rfl true (eqN_same _) ?_
    simp only [Act.put, List.setIfInBounds_toArray, List.set_cons_zero, List.set_cons_succ]
    refine wq_pick rfl (.tmp 54) (.tmp 61) (.const (.bool false)) rfl true rfl (.bool true) rfl ?_
    simp only [Act.put, List.setIfInBounds_toArray, List.set_cons_zero, List.set_cons_succ]
    refine wq_move rfl (.tmp 62) rfl (.bool true) rfl ?_
    simp only [Act.put, List.setIfInBounds_toArray, List.set_cons_zero, List.set_cons_succ]
    refine wq_load rfl (.tmp 4) rfl (w.heap.size) A rfl RA_15.out ?_
    simp only [Act.put, List.setIfInBounds_toArray, List.set_cons_zero, List.set_cons_succ]
    refine wq_load rfl (.tmp 5) rfl (w.heap.size + 1) B rfl RB_15.out ?_
    simp only [Act.put, List.setIfInBounds_toArray, List.set_cons_zero, List.set_cons_succ]
    refine wq_call rfl 21 [.tmp 64, .tmp 65] #[23, 23] rfl [vN A, vN B] rfl (CG21 _) (vN d) C11.out ?_
    simp only [Act.put, List.setIfInBounds_toArray, List.set_cons_zero, List.set_cons_succ]
    refine wq_load rfl (.tmp 4) rfl (w.heap.size) A rfl RA_15.out ?_
    simp only [Act.put, List.setIfInBounds_toArray, List.set_cons_zero, List.set_cons_succ]
    refine wq_load rfl (.tmp 5) rfl (w.heap.size + 1) B rfl RB_15.out ?_
    simp only [Act.put, List.setIfInBounds_toArray, List.set_cons_zero, List.set_cons_succ]
    refine wq_call rfl 22 [.tmp 67, .tmp 68] #[23, 23] rfl [vN A, vN B] rfl (CG22 _) (vN d) C12.out ?_
    simp only [Act.put, List.setIfInBounds_toArray, List.set_cons_zero, List.set_cons_succ]
    refine wq_eq rfl (.tmp 66) (.tmp 69) rfl d d rfl rfl true (eqN_same _) ?_
    simp only [Act.put, List.setIfInBounds_toArray, List.set_cons_zero, List.set_cons_succ]
    refine wq_pick rfl (.tmp 63) (.tmp 70) (.const (.bool false)) rfl true rfl (.bool true) rfl ?_
    simp only [Act.put, List.setIfInBounds_toArray, List.set_cons_zero, List.set_cons_succ]
    refine wq_move rfl (.tmp 71) rfl (.bool true) rfl ?_
    simp only [Act.put, List.setIfInBounds_toArray, List.set_cons_zero, List.set_cons_succ]
    refine wq_load rfl (.tmp 4) rfl (w.heap.size) A rfl RA_15.out ?_
    simp only [Act.put, List.setIfInBounds_toArray, List.set_cons_zero, List.set_cons_succ]
    refine wq_call rfl 23 [.tmp 73] #[23] rfl [vN A] rfl (CG23 _) (vN m) C13.out ?_
    simp only [Act.put, List.setIfInBounds_toArray, List.set_cons_zero, List.set_cons_succ]
    refine wq_load rfl (.tmp 4) rfl (w.heap.size) A rfl RA_15.out ?_
    simp only [Act.put, List.setIfInBounds_toArray, List.set_cons_zero, List.set_cons_succ]
    refine wq_call rfl 24 [.tmp 75] #[23] rfl [vN A] rfl (CG24 _) (vN m) C14.out ?_
    simp only [Act.put, List.setIfInBounds_toArray, List.set_cons_zero, List.set_cons_succ]
    refine wq_eq rfl (.tmp 74) (.tmp 76) rfl m m rfl rfl true (eqN_same _) ?_
    simp only [Act.put, List.setIfInBounds_toArray, List.set_cons_zero, List.set_cons_succ]
    refine wq_pick rfl (.tmp 72) (.tmp 77) (.const (.bool false)) rfl true rfl (.bool true) rfl ?_
    simp only [Act.put, List.setIfInBounds_toArray, List.set_cons_zero, List.set_cons_succ]
    refine wq_move rfl (.tmp 78) rfl (.bool true) rfl ?_
    simp only [Act.put, List.setIfInBounds_toArray, List.set_cons_zero, List.set_cons_succ]
    refine wq_load rfl (.tmp 4) rfl (w.heap.size) A rfl RA_15.out ?_
    simp only [Act.put, List.setIfInBounds_toArray, List.set_cons_zero, List.set_cons_succ]
    refine wq_load rfl (.tmp 5) rfl (w.heap.size + 1) B rfl RB_15.out ?_
    simp only [Act.put, List.setIfInBounds_toArray, List.set_cons_zero, List.set_cons_succ]
    refine wq_call rfl 25 [.tmp 80, .tmp 81] #[23, 23] rfl [vN A, vN B] rfl (CG25 _) (vN p) C15.out ?_
    simp only [Act.put, List.setIfInBounds_toArray, List.set_cons_zero, List.set_cons_succ]
    refine wq_load rfl (.tmp 4) rfl (w.heap.size) A rfl RA_15.out ?_
    simp only [Act.put, List.setIfInBounds_toArray, List.set_cons_zero, List.set_cons_succ]
    refine wq_load rfl (.tmp 5) rfl (w.heap.size + 1) B rfl RB_15.out ?_
    simp only [Act.put, List.setIfInBounds_toArray, List.set_cons_zero, List.set_cons_succ]
    as_aux_lemma =>
      refine wq_call rfl 26 [.tmp 83, .tmp 84] #[23, 23] rfl [vN A, vN B] rfl (CG26 _) (vN p) C16.out ?_
      simp only [Act.put, List.setIfInBounds_toArray, List.set_cons_zero, List.set_cons_succ]
      refine wq_eq rfl (.tmp 82) (.tmp 85) rfl p p rfl rfl true (eqN_same _) ?_
      simp only [Act.put, List.setIfInBounds_toArray, List.set_cons_zero, List.set_cons_succ]
      refine wq_pick rfl (.tmp 79) (.tmp 86) (.const (.bool false)) rfl true rfl (.bool true) rfl ?_
      simp only [Act.put, List.setIfInBounds_toArray, List.set_cons_zero, List.set_cons_succ]
      refine wq_move rfl (.tmp 87) rfl (.bool true) rfl ?_
      simp only [Act.put, List.setIfInBounds_toArray, List.set_cons_zero, List.set_cons_succ]
      refine wq_load rfl (.tmp 4) rfl (w.heap.size) A rfl RA_15.out ?_
      simp only [Act.put, List.setIfInBounds_toArray, List.set_cons_zero, List.set_cons_succ]
      refine wq_load rfl (.tmp 6) rfl (w.heap.size + 2) E rfl RE_15.out ?_
      simp only [Act.put, List.setIfInBounds_toArray, List.set_cons_zero, List.set_cons_succ]
      refine wq_call rfl 27 [.tmp 89, .tmp 90] #[23, 23] rfl [vN A, vN E] rfl (CG27 _) (vN q) C17.out ?_
      simp only [Act.put, List.setIfInBounds_toArray, List.set_cons_zero, List.set_cons_succ]
      refine wq_load rfl (.tmp 4) rfl (w.heap.size) A rfl RA_15.out ?_
      simp only [Act.put, List.setIfInBounds_toArray, List.set_cons_zero, List.set_cons_succ]
      refine wq_load rfl (.tmp 6) rfl (w.heap.size + 2) E rfl RE_15.out ?_
      simp only [Act.put, List.setIfInBounds_toArray, List.set_cons_zero, List.set_cons_succ]
      refine wq_call rfl 28 [.tmp 92, .tmp 93] #[23, 23] rfl [vN A, vN E] rfl (CG28 _) (vN q) C18.out ?_
      simp only [Act.put, List.setIfInBounds_toArray, List.set_cons_zero, List.set_cons_succ]
      refine wq_eq rfl (.tmp 91) (.tmp 94) rfl q q rfl rfl true (eqN_same _) ?_
      simp only [Act.put, List.setIfInBounds_toArray, List.set_cons_zero, List.set_cons_succ]
      refine wq_pick rfl (.tmp 88) (.tmp 95) (.const (.bool false)) rfl true rfl (.bool true) rfl ?_
      simp only [Act.put, List.setIfInBounds_toArray, List.set_cons_zero, List.set_cons_succ]
      refine wq_move rfl (.tmp 96) rfl (.bool true) rfl ?_
      simp only [Act.put, List.setIfInBounds_toArray, List.set_cons_zero, List.set_cons_succ]
      refine wq_load rfl (.tmp 4) rfl (w.heap.size) A rfl RA_15.out ?_
      simp only [Act.put, List.setIfInBounds_toArray, List.set_cons_zero, List.set_cons_succ]
      refine wq_call rfl 29 [.tmp 98] #[23] rfl [vN A] rfl (CG29 _) (vN i) C19.out ?_
      simp only [Act.put, List.setIfInBounds_toArray, List.set_cons_zero, List.set_cons_succ]
      refine wq_load rfl (.tmp 4) rfl (w.heap.size) A rfl RA_15.out ?_
      simp only [Act.put, List.setIfInBounds_toArray, List.set_cons_zero, List.set_cons_succ]
      refine wq_call rfl 30 [.tmp 100] #[23] rfl [vN A] rfl (CG30 _) (vN i) C20.out ?_
      simp only [Act.put, List.setIfInBounds_toArray, List.set_cons_zero, List.set_cons_succ]
      refine wq_eq rfl (.tmp 99) (.tmp 101) rfl i i rfl rfl true (eqN_same _) ?_
      simp only [Act.put, List.setIfInBounds_toArray, List.set_cons_zero, List.set_cons_succ]
      refine wq_pick rfl (.tmp 97) (.tmp 102) (.const (.bool false)) rfl true rfl (.bool true) rfl ?_
      simp only [Act.put, List.setIfInBounds_toArray, List.set_cons_zero, List.set_cons_succ]
      refine wq_move rfl (.tmp 103) rfl (.bool true) rfl ?_
      simp only [Act.put, List.setIfInBounds_toArray, List.set_cons_zero, List.set_cons_succ]
      refine wq_load rfl (.tmp 4) rfl (w.heap.size) A rfl RA_15.out ?_
      simp only [Act.put, List.setIfInBounds_toArray, List.set_cons_zero, List.set_cons_succ]
      refine wq_call rfl 31 [.tmp 105] #[23] rfl [vN A] rfl (CG31 _) (.bool o) C21.out ?_
      simp only [Act.put, List.setIfInBounds_toArray, List.set_cons_zero, List.set_cons_succ]
      refine wq_load rfl (.tmp 4) rfl (w.heap.size) A rfl RA_15.out ?_
      simp only [Act.put, List.setIfInBounds_toArray, List.set_cons_zero, List.set_cons_succ]
      refine wq_call rfl 32 [.tmp 107] #[23] rfl [vN A] rfl (CG32 _) (.bool o) C22.out ?_
      simp only [Act.put, List.setIfInBounds_toArray, List.set_cons_zero, List.set_cons_succ]
      refine wq_eqb (P := Try.prog) rfl (.tmp 106) (.tmp 108) rfl o o true rfl rfl (beq_self_eq_true _) ?_
      simp only [Act.put, List.setIfInBounds_toArray, List.set_cons_zero, List.set_cons_succ]
      refine wq_pick rfl (.tmp 104) (.tmp 109) (.const (.bool false)) rfl true rfl (.bool true) rfl ?_
      simp only [Act.put, List.setIfInBounds_toArray, List.set_cons_zero, List.set_cons_succ]
      refine wq_move rfl (.tmp 110) rfl (.bool true) rfl ?_
      simp only [Act.put, List.setIfInBounds_toArray, List.set_cons_zero, List.set_cons_succ]
      refine wq_load rfl (.tmp 4) rfl (w.heap.size) A rfl RA_15.out ?_
      simp only [Act.put, List.setIfInBounds_toArray, List.set_cons_zero, List.set_cons_succ]
      refine wq_load rfl (.tmp 5) rfl (w.heap.size + 1) B rfl RB_15.out ?_
      simp only [Act.put, List.setIfInBounds_toArray, List.set_cons_zero, List.set_cons_succ]
      refine wq_call rfl 33 [.tmp 112, .tmp 113] #[23, 23] rfl [vN A, vN B] rfl (CG33 _) (.bool e) C23.out ?_
      simp only [Act.put, List.setIfInBounds_toArray, List.set_cons_zero, List.set_cons_succ]
      as_aux_lemma =>
        refine wq_load rfl (.tmp 4) rfl (w.heap.size) A rfl RA_15.out ?_
        simp only [Act.put, List.setIfInBounds_toArray, List.set_cons_zero, List.set_cons_succ]
        refine wq_load rfl (.tmp 5) rfl (w.heap.size + 1) B rfl RB_15.out ?_
        simp only [Act.put, List.setIfInBounds_toArray, List.set_cons_zero, List.set_cons_succ]
        refine wq_call rfl 34 [.tmp 115, .tmp 116] #[23, 23] rfl [vN A, vN B] rfl (CG34 _) (.bool e) C24.out ?_
        simp only [Act.put, List.setIfInBounds_toArray, List.set_cons_zero, List.set_cons_succ]
        refine wq_eqb (P := Try.prog) rfl (.tmp 114) (.tmp 117) rfl e e true rfl rfl (beq_self_eq_true _) ?_
        simp only [Act.put, List.setIfInBounds_toArray, List.set_cons_zero, List.set_cons_succ]
        refine wq_pick rfl (.tmp 111) (.tmp 118) (.const (.bool false)) rfl true rfl (.bool true) rfl ?_
        simp only [Act.put, List.setIfInBounds_toArray, List.set_cons_zero, List.set_cons_succ]
        refine wq_assign rfl (.tmp 119) rfl (.bool true) rfl ?_
        simp only [Act.put, List.setIfInBounds_toArray, List.set_cons_zero, List.set_cons_succ]
        refine wq_nil ?_
        intro W hb
        have HBW : Hid (Below w.heap.size w W) := HB_15.out.trans (hb.mono HB_15.out.size)
        clear hb HB_15 RA_15 RB_15 RE_15 S9_15 S11_15
        go_wp2
        go_ret
        exact ⟨rfl, HBW.out⟩

theorem walkN (A B E n : Nat) (hA : A < TT) (hB : B < TT) (hE : E < TT) (hn : n < 18446744073709551616) (w : World) : Calls Try.prog 3 #[vN A, vN B, vN E, .int .u64 (n : Nat)] w (Gives (.bool true) w) := by
  obtain ⟨k, hk⟩ := k_ex
  obtain ⟨q, hq⟩ := q_ex
  exact calls_core A B E n _ _ _ _ _ _ _ _ _ _ _ _ w (Lib.hid fun w => lives_any w) (Lib.hid fun w => Root_any k hk A hA w) (Lib.hid fun w => rRoot_any k hk A hA w) (Lib.hid fun w => Rest_any A hA w) (Lib.hid fun w => rRest_any A hA w) (Lib.hid fun w => Canon_any A hA w) (Lib.hid fun w => rCanon_any A hA w) (Lib.hid fun w => Of_any n hn w) (Lib.hid fun w => rOf_core n hn w) (Lib.hid fun w => Add_any A B hA hB w) (Lib.hid fun w => rAdd_any A B hA hB w) (Lib.hid fun w => Sub_any A B hA hB w) (Lib.hid fun w => rSub_any A B hA hB w) (Lib.hid fun w => Neg_any A hA w) (Lib.hid fun w => rNeg_any A hA w) (Lib.hid fun w => Mul_any A B hA hB w) (Lib.hid fun w => rMul_any A B hA hB w) (Lib.hid fun w => Pow_any A E hA hE w) (Lib.hid fun w => rPow_any A E hA hE w) (Lib.hid fun w => Inv_any q hq A hA w) (Lib.hid fun w => rInv_any q hq A hA w) (Lib.hid fun w => Odd_any A hA w) (Lib.hid fun w => rOdd_any A hA w) (Lib.hid fun w => Same_any A B hA hB w) (Lib.hid fun w => rSame_any A B hA hB w)

theorem walk (z0 z1 z2 : List UInt8) (a3 : Int) (w : World) (w0 : z0.length = 32) (w1 : z1.length = 32) (w2 : z2.length = 32) (w3 : (Lit.int .u64 a3).wf = true) :
    Calls Try.prog 3 #[.agg (bcs z0).toArray, .agg (bcs z1).toArray, .agg (bcs z2).toArray, .int .u64 a3] w fun e w' => e = .returned (.bool true) ∧ Below w.heap.size w w' := by
  obtain ⟨A, hA, eA⟩ := bytes_num z0 w0
  obtain ⟨B, hB, eB⟩ := bytes_num z1 w1
  obtain ⟨E, hE, eE⟩ := bytes_num z2 w2
  have b3 := bounds_u64 w3
  obtain ⟨n, rfl⟩ := Int.eq_ofNat_of_zero_le b3.1
  rw [eA, eB, eE]
  exact walkN A B E n hA hB hE (by omega) w

set_option maxRecDepth 100000 in
theorem lifted (os : Os) (started : os.Started) (H : Type) (enc : TypeId × Value → H) :
    ReturnsInHanded {} Try.checked os 3 .any (Rows.fieldCallsSpec.pre6 enc Try.prog Try.f3 Rows.fieldCallsRow.domain false) (Rows.fieldCallsSpec.post enc Try.prog Try.f3 false true false false) := by
  refine returnsInHanded_of_change (C := Try.checked) own started (by kernel_rfl) Try.func3
    (ChangeSpec.witness6 (enc := enc) (C := Try.checked) false ⟨#[], #[.agg (Array.replicate 32 (.int .u8 0)), .agg (Array.replicate 32 (.int .u8 0)), .agg (Array.replicate 32 (.int .u8 0)), .int .u64 0], []⟩ 8 (by kernel_rfl) (by kernel_rfl) (by kernel_rfl) (by kernel_rfl)) ?_
  intro W base args ds gs before hval0 hW hcnd _
  have hval : ∀ (j : Nat) t v, Try.f3.params[j]? = some t → args[j]? = some v → Value.okWide Try.prog W .any base t v := hval0
  have hW' := hW
  obtain ⟨p, q, hA0, hV, rfl, hfz, hnd⟩ := hW
  have hA : DataW.TrodAll enc Try.prog W 0 (fun _ => true) true Try.f3.params.toList args.toList ds p := hA0
  rw [Try.params3] at hA hval
  obtain ⟨v0, vs0, d0, ds0, p0, q0, hargs, rfl, rfl, h0, r0⟩ := trodAll_cons hA
  obtain ⟨v1, vs1, d1, ds1, p1, q1, rfl, rfl, rfl, h1, r1⟩ := trodAll_cons r0
  obtain ⟨v2, vs2, d2, ds2, p2, q2, rfl, rfl, rfl, h2, r2⟩ := trodAll_cons r1
  obtain ⟨v3, vs3, d3, ds3, p3, q3, rfl, rfl, rfl, h3, r3⟩ := trodAll_cons r2
  obtain ⟨rfl, rfl, rfl⟩ := trodAll_nil r3
  obtain rfl : args = #[v0, v1, v2, v3] := by cases args; simp_all
  obtain ⟨rfl, rfl⟩ := trodVars_none hV
  have k0 := h0
  have lt0 : ∀ x ∈ p0, x.block < W.heap.size := by obtain ⟨m, hm⟩ := k0; exact DataW.trod_lt m _ _ _ hm
  obtain ⟨z0, w0, rfl⟩ := open_arr Try.underlying23 Try.underlying5 (by kernel_rfl) (by kernel_rfl) (hval 0 23 v0 rfl rfl) h0
  have k1 := h1
  have lt1 : ∀ x ∈ p1, x.block < W.heap.size := by obtain ⟨m, hm⟩ := k1; exact DataW.trod_lt m _ _ _ hm
  obtain ⟨z1, w1, rfl⟩ := open_arr Try.underlying23 Try.underlying5 (by kernel_rfl) (by kernel_rfl) (hval 1 23 v1 rfl rfl) h1
  have k2 := h2
  have lt2 : ∀ x ∈ p2, x.block < W.heap.size := by obtain ⟨m, hm⟩ := k2; exact DataW.trod_lt m _ _ _ hm
  obtain ⟨z2, w2, rfl⟩ := open_arr Try.underlying23 Try.underlying5 (by kernel_rfl) (by kernel_rfl) (hval 2 23 v2 rfl rfl) h2
  obtain ⟨a3, rfl, rfl, rfl, w3⟩ := open_int Try.underlying24 (hval 3 24 v3 rfl rfl) h3
  clear hA0 hval0
  refine (walk z0 z1 z2 a3 W w0 w1 w2 w3).mono fun e W' ⟨he, bel⟩ => ?_
  subst he
  exact ⟨_, rfl, _, _, _, [], _, [], hW', trodAll_mk1 (shut_bool Try.underlying4 _), (trodAll_cons_mk (Below.trod laidOut (by kernel_rfl) (of_decide_eq_true (by kernel_rfl)) k0 bel lt0) (trodAll_cons_mk (Below.trod laidOut (by kernel_rfl) (of_decide_eq_true (by kernel_rfl)) k1 bel lt1) (trodAll_cons_mk (Below.trod laidOut (by kernel_rfl) (of_decide_eq_true (by kernel_rfl)) k2 bel lt2) (trodAll_cons_mk (shut_int Try.underlying24 w3) trodAll_mk0)))), rfl, bel.frame _, fun h => by cases h⟩

theorem over : Rows.fieldCallsRow.holds Try.pinned (OpenSpec.ofChange Rows.fieldCallsSpec) :=
  OpenClaim.holds_of_wide 3 Try.f3 rfl rfl rfl rfl rfl rfl rfl ⟨rfl, rfl, rfl, rfl, rfl⟩ rfl rfl rfl rfl rfl (by kernel_rfl) Try.func3 (by kernel_rfl)
    (of_decide_eq_true (by kernel_rfl)) (by unfold Func.isWrapper; first | (rw [if_pos (by decide +kernel)]; kernel_rfl) | (rw [if_neg (by decide +kernel)]; exact ⟨rfl, rfl⟩))
    (fun os started H enc _ => lifted os started H enc)

/-- The statement. -/
theorem proved : Rows.FieldCallsSaid := over
#print axioms proved
end Go.Proofs.Ytgdimnbdnepbgaa.fieldCalls
