/- It is proved that FieldSmall returns true for any two numbers below 2^32: they are computed with as with integers. Conditions: none. -/
import Derived.Test.YtlkjengcmlfknaaRows
import Derived.Test.YtlkjengcmlfknaaGE
import Derived.ProofKit
import Derived.OpenShut
import Derived.ChangeOld
namespace Go.Proofs.Ytlkjengcmlfknaa.fieldSmall
open Go.ChangeShapes Go.WideShapes Go.ChangeAt Go.RowKit
set_option linter.unusedVariables false

theorem own : ownKnob Try.prog.godebug = none := by kernel_rfl
theorem laidOut : laidOutB Try.prog = true := by kernel_rfl
set_option linter.unusedSimpArgs false

set_option maxHeartbeats 8000000 in
set_option maxRecDepth 100000 in
theorem small_core (a b d e sm pr sq : Nat) (w : World) (HA : Hid (a < 4294967296)) (HB' : Hid (b < 4294967296)) (HMab : Hid (a * b < 18446744073709551616)) (HMaa : Hid (a * a < 18446744073709551616))
    (C0 : Hid (∀ w, Calls Try.prog 10 #[] w (Gives (.bool true) w)))
    (C1 : Hid (∀ w, Calls Try.prog 14 #[.int .u64 (a : Nat)] w (Gives (vN a) w)))
    (C2 : Hid (∀ w, Calls Try.prog 14 #[.int .u64 (b : Nat)] w (Gives (vN b) w)))
    (C3 : Hid (∀ w, Calls Try.prog 25 #[vN a, vN b] w (Gives (vN d) w)))
    (C4 : Hid (∀ w, Calls Try.prog 23 #[vN a, vN b] w (Gives (vN sm) w)))
    (C5 : Hid (∀ w, Calls Try.prog 14 #[.int .u64 (a + b : Nat)] w (Gives (vN sm) w)))
    (C6 : Hid (∀ w, Calls Try.prog 28 #[vN a, vN b] w (Gives (vN pr) w)))
    (C7 : Hid (∀ w, Calls Try.prog 14 #[.int .u64 (a * b : Nat)] w (Gives (vN pr) w)))
    (C8 : Hid (∀ w, Calls Try.prog 17 #[vN a] w (Gives (.bool ((decide (a % 2 = 1)))) w)))
    (C9 : Hid (∀ w, Calls Try.prog 18 #[vN a, vN b] w (Gives (.bool ((decide (a = b)))) w)))
    (C10 : Hid (∀ w, Calls Try.prog 14 #[.int .u64 2] w (Gives (vN 2) w)))
    (C11 : Hid (∀ w, Calls Try.prog 14 #[.int .u64 1] w (Gives (vN 1) w)))
    (C12 : Hid (∀ w, Calls Try.prog 16 #[vN a, vN 2] w (Gives (vN sq) w)))
    (C13 : Hid (∀ w, Calls Try.prog 14 #[.int .u64 (a * a : Nat)] w (Gives (vN sq) w)))
    (C14 : Hid (∀ w, Calls Try.prog 16 #[vN a, vN 1] w (Gives (vN a) w)))
    (C15 : Hid (∀ w, Calls Try.prog 12 #[vN a] w (Gives (.bool true) w)))
    (HGE : Hid (b ≤ a → ∀ w, Calls Try.prog 14 #[.int .u64 (a - b : Nat)] w (Gives (vN d) w)))
    (HLT : Hid (a < b → (∀ w, Calls Try.prog 14 #[.int .u64 (b - a : Nat)] w (Gives (vN e) w)) ∧ ∀ w, Calls Try.prog 13 #[vN e] w (Gives (vN d) w))) :
    Calls Try.prog 8 #[.int .u32 (a : Nat), .int .u32 (b : Nat)] w (Gives (.bool true) w) := by
  go_enter Try.func8, Try.ntmps8
  go_wp2_with fail
  refine (C0.out _).mono ?_
  rintro ex x1 ⟨rfl, hb⟩
  have HB_1 : Hid (Below w.heap.size w x1) := hb
  clear hb 
  go_wp2_with (first | ((with_reducible show wpList _ _ _ (⟨_, .convert 35 30 (.tmp 10), _, _, _, _⟩ :: _) _ _); go_must (refine wpList_exec rfl (.int .u64 (a : Nat)) (exec_conv (.tmp 10) rfl a (by have := HA.out; omega) rfl) ?_)) | fail)
  refine (C1.out _).mono ?_
  rintro ex x2 ⟨rfl, hb⟩
  have HB_2 := Lib.hid (HB_1.out.trans (hb.mono HB_1.out.size))
  clear hb  HB_1
  go_wp2_with (first | ((with_reducible show wpList _ _ _ (⟨_, .convert 35 30 (.tmp 13), _, _, _, _⟩ :: _) _ _); go_must (refine wpList_exec rfl (.int .u64 (b : Nat)) (exec_conv (.tmp 13) rfl b (by have := HB'.out; omega) rfl) ?_)) | fail)
  refine (C2.out _).mono ?_
  rintro ex x3 ⟨rfl, hb⟩
  have HB_3 := Lib.hid (HB_2.out.trans (hb.mono HB_2.out.size))
  clear hb  HB_2
  go_wp2_with (first | ((with_reducible show wpList _ _ _ (⟨some 5, .alloc 23, _, _, _, _⟩ :: _) _ _); go_must (refine wpList_alloc_row rfl 23 rfl (.agg (zbs 32)) zero23 ?_; intro u51 h1 z1 g1; have H51 := Lib.hid h1; have Z51 := Lib.hid z1; have G51 := Lib.hid g1; clear h1 z1 g1)) | ((with_reducible show wpList _ _ _ (⟨some 6, .alloc 23, _, _, _, _⟩ :: _) _ _); go_must (refine wpList_alloc_row rfl 23 rfl (.agg (zbs 32)) zero23 ?_; intro u52 h1 z1 g1; have H52 := Lib.hid h1; have Z52 := Lib.hid z1; have G52 := Lib.hid g1; clear h1 z1 g1)) | ((with_reducible show wpList _ _ _ (⟨none, .store 23 (.tmp 5) (.tmp 12), _, _, _, _⟩ :: _) _ _); go_must (refine wpList_store_all rfl 23 (.tmp 5) (.tmp 12) rfl (x3.heap.size) rfl (bcs (enc a)).toArray rfl 23 _ (ZAt.grown (show ZAt u51 x3.heap.size from H51.out) G52.out (by simp)) (by rw [List.size_toArray, bcs_enc_len]; exact size23) (by rw [List.size_toArray, bcs_enc_len]; rfl) (bcs_one _) ?_; intro v53 hh hg hz; have HH53 := Lib.hid hh; have HG53 := Lib.hid hg; clear hh hg hz)) | ((with_reducible show wpList _ _ _ (⟨none, .store 23 (.tmp 6) (.tmp 15), _, _, _, _⟩ :: _) _ _); go_must (refine wpList_store_all rfl 23 (.tmp 6) (.tmp 15) rfl (u51.heap.size) rfl (bcs (enc b)).toArray rfl 23 _ (ZAt.grown (show ZAt u52 u51.heap.size from H52.out) HG53.out (by have := Z51.out; simp; omega)) (by rw [List.size_toArray, bcs_enc_len]; exact size23) (by rw [List.size_toArray, bcs_enc_len]; rfl) (bcs_one _) ?_; intro v54 hh hg hz; have HH54 := Lib.hid hh; have HG54 := Lib.hid hg; clear hh hg hz; have X_5 : Hid (NAt v54 x3.heap.size a) := Lib.hid (NAt.grown ⟨23, HH53.out⟩ HG54.out (by have := Z51.out; simp; omega)); have Y_5 : Hid (NAt v54 u51.heap.size b) := Lib.hid ⟨23, HH54.out⟩; have HB_5 : Hid (Below w.heap.size w v54) := Lib.hid ((((HB_3.out.grown G51.out HB_3.out.size (by simp)).grown G52.out (by have := HB_3.out.size; have := Z51.out; omega) (by simp)).grown HG53.out (by have := HB_3.out.size; have := Z51.out; have := Z52.out; omega) (fun r hr => by injection hr with hr; have := HB_3.out.size; omega)).grown HG54.out (by have := HB_3.out.size; have := Z51.out; have := Z52.out; have := HG53.out.size; omega) (fun r hr => by injection hr with hr; have := HB_3.out.size; have := Z51.out; omega)); clear H51 Z51 G51 H52 Z52 G52 HH53 HG53 HH54 HG54 HB_3)) | ((with_reducible show wpList _ _ _ (⟨_, .load 23 (.tmp 5), _, _, _, _⟩ :: _) _ _); go_must (refine wpList_exec rfl (vN a) (exec_load23 (.tmp 5) rfl (x3.heap.size) a rfl X_5.out) ?_)) | ((with_reducible show wpList _ _ _ (⟨_, .load 23 (.tmp 6), _, _, _, _⟩ :: _) _ _); go_must (refine wpList_exec rfl (vN b) (exec_load23 (.tmp 6) rfl (u51.heap.size) b rfl Y_5.out) ?_)) | fail)
  generalize x3.heap.size = g5 at *
  generalize u51.heap.size = g6 at *
  refine (C3.out _).mono ?_
  rintro ex x61 ⟨rfl, hb⟩
  have X_61 := Lib.hid (X_5.out.keep hb)
  have Y_61 := Lib.hid (Y_5.out.keep hb)
  have HB_61 := Lib.hid (HB_5.out.trans (hb.mono HB_5.out.size))
  clear hb X_5 Y_5 HB_5
  go_wp2_with (first | ((with_reducible show wpList _ _ _ (⟨some 7, .alloc 23, _, _, _, _⟩ :: _) _ _); go_must (refine wpList_alloc_row rfl 23 rfl (.agg (zbs 32)) zero23 ?_; intro u62 h1 z1 g1; have H62 := Lib.hid h1; have Z62 := Lib.hid z1; have G62 := Lib.hid g1; clear h1 z1 g1)) | ((with_reducible show wpList _ _ _ (⟨none, .store 23 (.tmp 7) (.tmp 18), _, _, _, _⟩ :: _) _ _); go_must (refine wpList_store_all rfl 23 (.tmp 7) (.tmp 18) rfl (x61.heap.size) rfl (bcs (enc d)).toArray rfl 23 _ H62.out (by rw [List.size_toArray, bcs_enc_len]; exact size23) (by rw [List.size_toArray, bcs_enc_len]; rfl) (bcs_one _) ?_; intro v62 hh hg hz; have HH62 := Lib.hid hh; have HG62 := Lib.hid hg; clear hh hg hz)) | fail)
  have X_62 := Lib.hid ((X_61.out.grown G62.out (by simp)).grown HG62.out (by have := X_61.out.lt; simp; omega))
  have Y_62 := Lib.hid ((Y_61.out.grown G62.out (by simp)).grown HG62.out (by have := Y_61.out.lt; simp; omega))
  have D_62 : Hid (NAt v62 x61.heap.size d) := Lib.hid ⟨23, HH62.out⟩
  have HB_62 : Hid (Below w.heap.size w v62) := Lib.hid ((HB_61.out.grown G62.out HB_61.out.size (by simp)).grown HG62.out (by have := HB_61.out.size; have := Z62.out; omega) (fun r hr => by injection hr with hr; have := HB_61.out.size; omega))
  clear H62 Z62 G62 HH62 HG62 HB_61 X_61 Y_61
  generalize x61.heap.size = g7 at *
  rcases Nat.lt_or_ge a b with hlt | hge
  · have HL1 := Lib.hid (HLT.out hlt).1
    have HL2 := Lib.hid (HLT.out hlt).2
    clear HLT HGE
    refine region_wq (by kernel_rfl) (by kernel_rfl) ?_
    refine wq_move rfl (.tmp 0) rfl (.int .u32 (a : Nat)) rfl ?_
    simp only [Act.put, List.setIfInBounds_toArray, List.set_cons_zero, List.set_cons_succ]
    refine wq_move rfl (.tmp 1) rfl (.int .u32 (b : Nat)) rfl ?_
    simp only [Act.put, List.setIfInBounds_toArray, List.set_cons_zero, List.set_cons_succ]
    refine wq_bin (P := Try.prog) rfl .geq 35 35 (.tmp 19) (.tmp 20) rfl (.int .u32 (a : Nat)) (.int .u32 (b : Nat)) (.bool false) rfl rfl (fun _ => rfl) (fun w => ((run_geq32 (a) (b)) w).trans (congrArg (fun x => Result.ok (Value.bool x) w) (decide_eq_false (Nat.not_le.2 hlt)))) ?_
    simp only [Act.put, List.setIfInBounds_toArray, List.set_cons_zero, List.set_cons_succ]
    refine wq_move rfl (.tmp 21) rfl (.bool false) rfl ?_
    simp only [Act.put, List.setIfInBounds_toArray, List.set_cons_zero, List.set_cons_succ]
    refine wq_skip (by kernel_rfl) ?_
    simp only [Act.put, List.setIfInBounds_toArray, List.set_cons_zero, List.set_cons_succ]
    refine wq_skip (by kernel_rfl) ?_
    simp only [Act.put, List.setIfInBounds_toArray, List.set_cons_zero, List.set_cons_succ]
    refine wq_skip (by kernel_rfl) ?_
    simp only [Act.put, List.setIfInBounds_toArray, List.set_cons_zero, List.set_cons_succ]
    refine wq_skip (by kernel_rfl) ?_
    simp only [Act.put, List.setIfInBounds_toArray, List.set_cons_zero, List.set_cons_succ]
    refine wq_skip (by kernel_rfl) ?_
    simp only [Act.put, List.setIfInBounds_toArray, List.set_cons_zero, List.set_cons_succ]
    refine wq_skip (by kernel_rfl) ?_
    simp only [Act.put, List.setIfInBounds_toArray, List.set_cons_zero, List.set_cons_succ]
    refine wq_skip (by kernel_rfl) ?_
    simp only [Act.put, List.setIfInBounds_toArray, List.set_cons_zero, List.set_cons_succ]
    refine wq_pick rfl (.tmp 22) (.tmp 29) (.const (.bool false)) rfl false rfl (.bool false) rfl ?_
    simp only [Act.put, List.setIfInBounds_toArray, List.set_cons_zero, List.set_cons_succ]
    refine wq_move rfl (.tmp 30) rfl (.bool false) rfl ?_
    simp only [Act.put, List.setIfInBounds_toArray, List.set_cons_zero, List.set_cons_succ]
    refine wq_move rfl (.tmp 0) rfl (.int .u32 (a : Nat)) rfl ?_
    simp only [Act.put, List.setIfInBounds_toArray, List.set_cons_zero, List.set_cons_succ]
    refine wq_move rfl (.tmp 1) rfl (.int .u32 (b : Nat)) rfl ?_
    simp only [Act.put, List.setIfInBounds_toArray, List.set_cons_zero, List.set_cons_succ]
    refine wq_bin (P := Try.prog) rfl .lss 35 35 (.tmp 32) (.tmp 33) rfl (.int .u32 (a : Nat)) (.int .u32 (b : Nat)) (.bool true) rfl rfl (fun _ => rfl) (fun w => ((run_lss32 (a) (b)) w).trans (congrArg (fun x => Result.ok (Value.bool x) w) (decide_eq_true hlt))) ?_
    simp only [Act.put, List.setIfInBounds_toArray, List.set_cons_zero, List.set_cons_succ]
    refine wq_move rfl (.tmp 34) rfl (.bool true) rfl ?_
    simp only [Act.put, List.setIfInBounds_toArray, List.set_cons_zero, List.set_cons_succ]
    refine wq_load rfl (.tmp 7) rfl (g7) d rfl D_62.out ?_
    simp only [Act.put, List.setIfInBounds_toArray, List.set_cons_zero, List.set_cons_succ]
    refine wq_move rfl (.tmp 1) rfl (.int .u32 (b : Nat)) rfl ?_
    simp only [Act.put, List.setIfInBounds_toArray, List.set_cons_zero, List.set_cons_succ]
    refine wq_move rfl (.tmp 0) rfl (.int .u32 (a : Nat)) rfl ?_
    simp only [Act.put, List.setIfInBounds_toArray, List.set_cons_zero, List.set_cons_succ]
    refine wq_bin (P := Try.prog) rfl .sub 35 35 (.tmp 37) (.tmp 38) rfl (.int .u32 (b : Nat)) (.int .u32 (a : Nat)) (.int .u32 (b - a : Nat)) rfl rfl (fun _ => rfl) (run_sub32 (b) (a) (by have := HA.out; have := HB'.out; omega) (by have := HA.out; have := HB'.out; omega)) ?_
    simp only [Act.put, List.setIfInBounds_toArray, List.set_cons_zero, List.set_cons_succ]
    refine wq_conv rfl (.tmp 39) rfl (b - a) (by have := HA.out; have := HB'.out; omega) rfl ?_
    simp only [Act.put, List.setIfInBounds_toArray, List.set_cons_zero, List.set_cons_succ]
    refine wq_call rfl 14 [.tmp 40] #[30] rfl [.int .u64 (b - a : Nat)] rfl (CF14 _) (vN e) HL1.out ?_
    simp only [Act.put, List.setIfInBounds_toArray, List.set_cons_zero, List.set_cons_succ]
    refine wq_call rfl 13 [.tmp 41] #[23] rfl [vN e] rfl (CF13 _) (vN d) HL2.out ?_
    simp only [Act.put, List.setIfInBounds_toArray, List.set_cons_zero, List.set_cons_succ]
    refine wq_neq rfl (.tmp 36) (.tmp 42) rfl d d rfl rfl true false (eqN_same _) rfl ?_
    simp only [Act.put, List.setIfInBounds_toArray, List.set_cons_zero, List.set_cons_succ]
    refine wq_pick rfl (.tmp 35) (.tmp 43) (.const (.bool false)) rfl true rfl (.bool false) rfl ?_
    simp only [Act.put, List.setIfInBounds_toArray, List.set_cons_zero, List.set_cons_succ]
    refine wq_pick rfl (.tmp 31) (.const (.bool true)) (.tmp 44) rfl false rfl (.bool false) rfl ?_
    simp only [Act.put, List.setIfInBounds_toArray, List.set_cons_zero, List.set_cons_succ]
    refine wq_nil ?_
    intro y1 hb
    have X_y1 := Lib.hid (X_62.out.keep hb)
    have Y_y1 := Lib.hid (Y_62.out.keep hb)
    have D_y1 := Lib.hid (D_62.out.keep hb)
    have HB_y1 : Hid (Below w.heap.size w y1) := Lib.hid (HB_62.out.trans (hb.mono HB_62.out.size))
    clear hb HB_62 X_62 Y_62 D_62
    go_wp2_with fail
    refine region_wq (by kernel_rfl) (by kernel_rfl) ?_
    refine wq_load rfl (.tmp 5) rfl (g5) a rfl X_y1.out ?_
    simp only [Act.put, List.setIfInBounds_toArray, List.set_cons_zero, List.set_cons_succ]
    refine wq_load rfl (.tmp 6) rfl (g6) b rfl Y_y1.out ?_
    simp only [Act.put, List.setIfInBounds_toArray, List.set_cons_zero, List.set_cons_succ]
    refine wq_call rfl 23 [.tmp 46, .tmp 47] #[23, 23] rfl [vN a, vN b] rfl (CF23 _) (vN sm) C4.out ?_
    simp only [Act.put, List.setIfInBounds_toArray, List.set_cons_zero, List.set_cons_succ]
    refine wq_move rfl (.tmp 0) rfl (.int .u32 (a : Nat)) rfl ?_
    simp only [Act.put, List.setIfInBounds_toArray, List.set_cons_zero, List.set_cons_succ]
    refine wq_conv rfl (.tmp 49) rfl (a) (by have := HA.out; have := HB'.out; omega) rfl ?_
    simp only [Act.put, List.setIfInBounds_toArray, List.set_cons_zero, List.set_cons_succ]
    refine wq_move rfl (.tmp 1) rfl (.int .u32 (b : Nat)) rfl ?_
    simp only [Act.put, List.setIfInBounds_toArray, List.set_cons_zero, List.set_cons_succ]
    refine wq_conv rfl (.tmp 51) rfl (b) (by have := HA.out; have := HB'.out; omega) rfl ?_
    simp only [Act.put, List.setIfInBounds_toArray, List.set_cons_zero, List.set_cons_succ]
    refine wq_bin (P := Try.prog) rfl .add 30 30 (.tmp 50) (.tmp 52) rfl (.int .u64 (a : Nat)) (.int .u64 (b : Nat)) (.int .u64 (a + b : Nat)) rfl rfl (fun _ => rfl) (run_add64 (a) (b) (by have := HA.out; have := HB'.out; omega)) ?_
    simp only [Act.put, List.setIfInBounds_toArray, List.set_cons_zero, List.set_cons_succ]
    refine wq_call rfl 14 [.tmp 53] #[30] rfl [.int .u64 (a + b : Nat)] rfl (CF14 _) (vN sm) C5.out ?_
    simp only [Act.put, List.setIfInBounds_toArray, List.set_cons_zero, List.set_cons_succ]
    refine wq_eq rfl (.tmp 48) (.tmp 54) rfl sm sm rfl rfl true (eqN_same _) ?_
    simp only [Act.put, List.setIfInBounds_toArray, List.set_cons_zero, List.set_cons_succ]
    refine wq_move rfl (.tmp 55) rfl (.bool true) rfl ?_
    simp only [Act.put, List.setIfInBounds_toArray, List.set_cons_zero, List.set_cons_succ]
    refine wq_load rfl (.tmp 5) rfl (g5) a rfl X_y1.out ?_
    simp only [Act.put, List.setIfInBounds_toArray, List.set_cons_zero, List.set_cons_succ]
    refine wq_load rfl (.tmp 6) rfl (g6) b rfl Y_y1.out ?_
    simp only [Act.put, List.setIfInBounds_toArray, List.set_cons_zero, List.set_cons_succ]
    refine wq_call rfl 28 [.tmp 57, .tmp 58] #[23, 23] rfl [vN a, vN b] rfl (CF28 _) (vN pr) C6.out ?_
    simp only [Act.put, List.setIfInBounds_toArray, List.set_cons_zero, List.set_cons_succ]
    refine wq_move rfl (.tmp 0) rfl (.int .u32 (a : Nat)) rfl ?_
    simp only [Act.put, List.setIfInBounds_toArray, List.set_cons_zero, List.set_cons_succ]
    refine wq_conv rfl (.tmp 60) rfl (a) (by have := HA.out; have := HB'.out; omega) rfl ?_
    simp only [Act.put, List.setIfInBounds_toArray, List.set_cons_zero, List.set_cons_succ]
    refine wq_move rfl (.tmp 1) rfl (.int .u32 (b : Nat)) rfl ?_
    simp only [Act.put, List.setIfInBounds_toArray, List.set_cons_zero, List.set_cons_succ]
    refine wq_conv rfl (.tmp 62) rfl (b) (by have := HA.out; have := HB'.out; omega) rfl ?_
    simp only [Act.put, List.setIfInBounds_toArray, List.set_cons_zero, List.set_cons_succ]
    refine wq_bin (P := Try.prog) rfl .mul 30 30 (.tmp 61) (.tmp 63) rfl (.int .u64 (a : Nat)) (.int .u64 (b : Nat)) (.int .u64 (a * b : Nat)) rfl rfl (fun _ => rfl) (run_mul64 (a) (b) (HMab.out)) ?_
    simp only [Act.put, List.setIfInBounds_toArray, List.set_cons_zero, List.set_cons_succ]
    refine wq_call rfl 14 [.tmp 64] #[30] rfl [.int .u64 (a * b : Nat)] rfl (CF14 _) (vN pr) C7.out ?_
    simp only [Act.put, List.setIfInBounds_toArray, List.set_cons_zero, List.set_cons_succ]
    refine wq_eq rfl (.tmp 59) (.tmp 65) rfl pr pr rfl rfl true (eqN_same _) ?_
    simp only [Act.put, List.setIfInBounds_toArray, List.set_cons_zero, List.set_cons_succ]
    refine wq_pick rfl (.tmp 56) (.tmp 66) (.const (.bool false)) rfl true rfl (.bool true) rfl ?_
    simp only [Act.put, List.setIfInBounds_toArray, List.set_cons_zero, List.set_cons_succ]
    refine wq_move rfl (.tmp 67) rfl (.bool true) rfl ?_
    simp only [Act.put, List.setIfInBounds_toArray, List.set_cons_zero, List.set_cons_succ]
    refine wq_load rfl (.tmp 5) rfl (g5) a rfl X_y1.out ?_
    simp only [Act.put, List.setIfInBounds_toArray, List.set_cons_zero, List.set_cons_succ]
    refine wq_call rfl 17 [.tmp 69] #[23] rfl [vN a] rfl (CF17 _) (.bool (decide (a % 2 = 1))) C8.out ?_
    simp only [Act.put, List.setIfInBounds_toArray, List.set_cons_zero, List.set_cons_succ]
    refine wq_move rfl (.tmp 0) rfl (.int .u32 (a : Nat)) rfl ?_
    simp only [Act.put, List.setIfInBounds_toArray, List.set_cons_zero, List.set_cons_succ]
    refine wq_bin (P := Try.prog) rfl .rem 35 35 (.tmp 71) (.const (.int .u32 2)) rfl (.int .u32 (a : Nat)) (.int .u32 2) (.int .u32 (a % 2 : Nat)) rfl rfl (fun _ => rfl) (run_rem32 (a)) ?_
    simp only [Act.put, List.setIfInBounds_toArray, List.set_cons_zero, List.set_cons_succ]
    refine wq_bin (P := Try.prog) rfl .eql 35 35 (.tmp 72) (.const (.int .u32 1)) rfl (.int .u32 (a % 2 : Nat)) (.int .u32 1) (.bool (decide (a % 2 = 1))) rfl rfl (fun _ => rfl) (run_eql32 (a % 2) (1)) ?_
    simp only [Act.put, List.setIfInBounds_toArray, List.set_cons_zero, List.set_cons_succ]
    refine wq_eqb (P := Try.prog) rfl (.tmp 70) (.tmp 73) rfl ((decide (a % 2 = 1))) ((decide (a % 2 = 1))) true rfl rfl (beq_self_eq_true _) ?_
    simp only [Act.put, List.setIfInBounds_toArray, List.set_cons_zero, List.set_cons_succ]
    refine wq_pick rfl (.tmp 68) (.tmp 74) (.const (.bool false)) rfl true rfl (.bool true) rfl ?_
    simp only [Act.put, List.setIfInBounds_toArray, List.set_cons_zero, List.set_cons_succ]
    refine wq_move rfl (.tmp 75) rfl (.bool true) rfl ?_
    simp only [Act.put, List.setIfInBounds_toArray, List.set_cons_zero, List.set_cons_succ]
    refine wq_load rfl (.tmp 5) rfl (g5) a rfl X_y1.out ?_
    simp only [Act.put, List.setIfInBounds_toArray, List.set_cons_zero, List.set_cons_succ]
    refine wq_load rfl (.tmp 6) rfl (g6) b rfl Y_y1.out ?_
    simp only [Act.put, List.setIfInBounds_toArray, List.set_cons_zero, List.set_cons_succ]
    refine wq_call rfl 18 [.tmp 77, .tmp 78] #[23, 23] rfl [vN a, vN b] rfl (CF18 _) (.bool (decide (a = b))) C9.out ?_
    simp only [Act.put, List.setIfInBounds_toArray, List.set_cons_zero, List.set_cons_succ]
    refine wq_move rfl (.tmp 0) rfl (.int .u32 (a : Nat)) rfl ?_
    simp only [Act.put, List.setIfInBounds_toArray, List.set_cons_zero, List.set_cons_succ]
    refine wq_move rfl (.tmp 1) rfl (.int .u32 (b : Nat)) rfl ?_
    simp only [Act.put, List.setIfInBounds_toArray, List.set_cons_zero, List.set_cons_succ]
    refine wq_bin (P := Try.prog) rfl .eql 35 35 (.tmp 80) (.tmp 81) rfl (.int .u32 (a : Nat)) (.int .u32 (b : Nat)) (.bool (decide (a = b))) rfl rfl (fun _ => rfl) (run_eql32 (a) (b)) ?_
    simp only [Act.put, List.setIfInBounds_toArray, List.set_cons_zero, List.set_cons_succ]
    refine wq_eqb (P := Try.prog) rfl (.tmp 79) (.tmp 82) rfl ((decide (a = b))) ((decide (a = b))) true rfl rfl (beq_self_eq_true _) ?_
    simp only [Act.put, List.setIfInBounds_toArray, List.set_cons_zero, List.set_cons_succ]
    refine wq_pick rfl (.tmp 76) (.tmp 83) (.const (.bool false)) rfl true rfl (.bool true) rfl ?_
    simp only [Act.put, List.setIfInBounds_toArray, List.set_cons_zero, List.set_cons_succ]
    refine wq_move rfl (.tmp 84) rfl (.bool true) rfl ?_
    simp only [Act.put, List.setIfInBounds_toArray, List.set_cons_zero, List.set_cons_succ]
    refine wq_load rfl (.tmp 5) rfl (g5) a rfl X_y1.out ?_
    simp only [Act.put, List.setIfInBounds_toArray, List.set_cons_zero, List.set_cons_succ]
    refine wq_call rfl 14 [.const (.int .u64 2)] #[30] rfl [.int .u64 2] rfl (CF14 _) (vN 2) C10.out ?_
    simp only [Act.put, List.setIfInBounds_toArray, List.set_cons_zero, List.set_cons_succ]
    refine wq_call rfl 16 [.tmp 86, .tmp 87] #[23, 23] rfl [vN a, vN 2] rfl (CF16 _) (vN sq) C12.out ?_
    simp only [Act.put, List.setIfInBounds_toArray, List.set_cons_zero, List.set_cons_succ]
    refine wq_move rfl (.tmp 0) rfl (.int .u32 (a : Nat)) rfl ?_
    simp only [Act.put, List.setIfInBounds_toArray, List.set_cons_zero, List.set_cons_succ]
    refine wq_conv rfl (.tmp 89) rfl (a) (by have := HA.out; have := HB'.out; omega) rfl ?_
    simp only [Act.put, List.setIfInBounds_toArray, List.set_cons_zero, List.set_cons_succ]
    refine wq_move rfl (.tmp 0) rfl (.int .u32 (a : Nat)) rfl ?_
    simp only [Act.put, List.setIfInBounds_toArray, List.set_cons_zero, List.set_cons_succ]
    refine wq_conv rfl (.tmp 91) rfl (a) (by have := HA.out; have := HB'.out; omega) rfl ?_
    simp only [Act.put, List.setIfInBounds_toArray, List.set_cons_zero, List.set_cons_succ]
    refine wq_bin (P := Try.prog) rfl .mul 30 30 (.tmp 90) (.tmp 92) rfl (.int .u64 (a : Nat)) (.int .u64 (a : Nat)) (.int .u64 (a * a : Nat)) rfl rfl (fun _ => rfl) (run_mul64 (a) (a) (HMaa.out)) ?_
    simp only [Act.put, List.setIfInBounds_toArray, List.set_cons_zero, List.set_cons_succ]
    refine wq_call rfl 14 [.tmp 93] #[30] rfl [.int .u64 (a * a : Nat)] rfl (CF14 _) (vN sq) C13.out ?_
    simp only [Act.put, List.setIfInBounds_toArray, List.set_cons_zero, List.set_cons_succ]
    refine wq_eq rfl (.tmp 88) (.tmp 94) rfl sq sq rfl rfl true (eqN_same _) ?_
    simp only [Act.put, List.setIfInBounds_toArray, List.set_cons_zero, List.set_cons_succ]
    refine wq_pick rfl (.tmp 85) (.tmp 95) (.const (.bool false)) rfl true rfl (.bool true) rfl ?_
    simp only [Act.put, List.setIfInBounds_toArray, List.set_cons_zero, List.set_cons_succ]
    refine wq_move rfl (.tmp 96) rfl (.bool true) rfl ?_
    simp only [Act.put, List.setIfInBounds_toArray, List.set_cons_zero, List.set_cons_succ]
    refine wq_load rfl (.tmp 5) rfl (g5) a rfl X_y1.out ?_
    simp only [Act.put, List.setIfInBounds_toArray, List.set_cons_zero, List.set_cons_succ]
    refine wq_call rfl 14 [.const (.int .u64 1)] #[30] rfl [.int .u64 1] rfl (CF14 _) (vN 1) C11.out ?_
    simp only [Act.put, List.setIfInBounds_toArray, List.set_cons_zero, List.set_cons_succ]
    refine wq_call rfl 16 [.tmp 98, .tmp 99] #[23, 23] rfl [vN a, vN 1] rfl (CF16 _) (vN a) C14.out ?_
    simp only [Act.put, List.setIfInBounds_toArray, List.set_cons_zero, List.set_cons_succ]
    refine wq_load rfl (.tmp 5) rfl (g5) a rfl X_y1.out ?_
    simp only [Act.put, List.setIfInBounds_toArray, List.set_cons_zero, List.set_cons_succ]
    refine wq_eq rfl (.tmp 100) (.tmp 101) rfl a a rfl rfl true (eqN_same _) ?_
    simp only [Act.put, List.setIfInBounds_toArray, List.set_cons_zero, List.set_cons_succ]
    refine wq_pick rfl (.tmp 97) (.tmp 102) (.const (.bool false)) rfl true rfl (.bool true) rfl ?_
    simp only [Act.put, List.setIfInBounds_toArray, List.set_cons_zero, List.set_cons_succ]
    refine wq_move rfl (.tmp 103) rfl (.bool true) rfl ?_
    simp only [Act.put, List.setIfInBounds_toArray, List.set_cons_zero, List.set_cons_succ]
    refine wq_load rfl (.tmp 5) rfl (g5) a rfl X_y1.out ?_
    simp only [Act.put, List.setIfInBounds_toArray, List.set_cons_zero, List.set_cons_succ]
    refine wq_call rfl 12 [.tmp 105] #[23] rfl [vN a] rfl (CF12 _) (.bool true) C15.out ?_
    simp only [Act.put, List.setIfInBounds_toArray, List.set_cons_zero, List.set_cons_succ]
    refine wq_pick rfl (.tmp 104) (.tmp 106) (.const (.bool false)) rfl true rfl (.bool true) rfl ?_
    simp only [Act.put, List.setIfInBounds_toArray, List.set_cons_zero, List.set_cons_succ]
    refine wq_assign rfl (.tmp 107) rfl (.bool true) rfl ?_
    simp only [Act.put, List.setIfInBounds_toArray, List.set_cons_zero, List.set_cons_succ]
    refine wq_nil ?_
    intro y2 hb
    have HBW : Hid (Below w.heap.size w y2) := Lib.hid (HB_y1.out.trans (hb.mono HB_y1.out.size))
    clear hb HB_y1 X_y1 Y_y1 D_y1
    go_wp2
    go_ret
    exact ⟨rfl, HBW.out⟩
  · have HG1 := Lib.hid (HGE.out hge)
    clear HLT HGE
    refine region_wq (by kernel_rfl) (by kernel_rfl) ?_
    refine wq_move rfl (.tmp 0) rfl (.int .u32 (a : Nat)) rfl ?_
    simp only [Act.put, List.setIfInBounds_toArray, List.set_cons_zero, List.set_cons_succ]
    refine wq_move rfl (.tmp 1) rfl (.int .u32 (b : Nat)) rfl ?_
    simp only [Act.put, List.setIfInBounds_toArray, List.set_cons_zero, List.set_cons_succ]
    refine wq_bin (P := Try.prog) rfl .geq 35 35 (.tmp 19) (.tmp 20) rfl (.int .u32 (a : Nat)) (.int .u32 (b : Nat)) (.bool true) rfl rfl (fun _ => rfl) (fun w => ((run_geq32 (a) (b)) w).trans (congrArg (fun x => Result.ok (Value.bool x) w) (decide_eq_true hge))) ?_
    simp only [Act.put, List.setIfInBounds_toArray, List.set_cons_zero, List.set_cons_succ]
    refine wq_move rfl (.tmp 21) rfl (.bool true) rfl ?_
    simp only [Act.put, List.setIfInBounds_toArray, List.set_cons_zero, List.set_cons_succ]
    refine wq_load rfl (.tmp 7) rfl (g7) d rfl D_62.out ?_
    simp only [Act.put, List.setIfInBounds_toArray, List.set_cons_zero, List.set_cons_succ]
    refine wq_move rfl (.tmp 0) rfl (.int .u32 (a : Nat)) rfl ?_
    simp only [Act.put, List.setIfInBounds_toArray, List.set_cons_zero, List.set_cons_succ]
    refine wq_move rfl (.tmp 1) rfl (.int .u32 (b : Nat)) rfl ?_
    simp only [Act.put, List.setIfInBounds_toArray, List.set_cons_zero, List.set_cons_succ]
    refine wq_bin (P := Try.prog) rfl .sub 35 35 (.tmp 24) (.tmp 25) rfl (.int .u32 (a : Nat)) (.int .u32 (b : Nat)) (.int .u32 (a - b : Nat)) rfl rfl (fun _ => rfl) (run_sub32 (a) (b) (by have := HA.out; have := HB'.out; omega) (by have := HA.out; have := HB'.out; omega)) ?_
    simp only [Act.put, List.setIfInBounds_toArray, List.set_cons_zero, List.set_cons_succ]
    refine wq_conv rfl (.tmp 26) rfl (a - b) (by have := HA.out; have := HB'.out; omega) rfl ?_
    simp only [Act.put, List.setIfInBounds_toArray, List.set_cons_zero, List.set_cons_succ]
    refine wq_call rfl 14 [.tmp 27] #[30] rfl [.int .u64 (a - b : Nat)] rfl (CF14 _) (vN d) HG1.out ?_
    simp only [Act.put, List.setIfInBounds_toArray, List.set_cons_zero, List.set_cons_succ]
    refine wq_neq rfl (.tmp 23) (.tmp 28) rfl d d rfl rfl true false (eqN_same _) rfl ?_
    simp only [Act.put, List.setIfInBounds_toArray, List.set_cons_zero, List.set_cons_succ]
    refine wq_pick rfl (.tmp 22) (.tmp 29) (.const (.bool false)) rfl true rfl (.bool false) rfl ?_
    simp only [Act.put, List.setIfInBounds_toArray, List.set_cons_zero, List.set_cons_succ]
    refine wq_move rfl (.tmp 30) rfl (.bool false) rfl ?_
    simp only [Act.put, List.setIfInBounds_toArray, List.set_cons_zero, List.set_cons_succ]
    refine wq_move rfl (.tmp 0) rfl (.int .u32 (a : Nat)) rfl ?_
    simp only [Act.put, List.setIfInBounds_toArray, List.set_cons_zero, List.set_cons_succ]
    refine wq_move rfl (.tmp 1) rfl (.int .u32 (b : Nat)) rfl ?_
    simp only [Act.put, List.setIfInBounds_toArray, List.set_cons_zero, List.set_cons_succ]
    refine wq_bin (P := Try.prog) rfl .lss 35 35 (.tmp 32) (.tmp 33) rfl (.int .u32 (a : Nat)) (.int .u32 (b : Nat)) (.bool false) rfl rfl (fun _ => rfl) (fun w => ((run_lss32 (a) (b)) w).trans (congrArg (fun x => Result.ok (Value.bool x) w) (decide_eq_false (Nat.not_lt.2 hge)))) ?_
    simp only [Act.put, List.setIfInBounds_toArray, List.set_cons_zero, List.set_cons_succ]
    refine wq_move rfl (.tmp 34) rfl (.bool false) rfl ?_
    simp only [Act.put, List.setIfInBounds_toArray, List.set_cons_zero, List.set_cons_succ]
    refine wq_skip (by kernel_rfl) ?_
    simp only [Act.put, List.setIfInBounds_toArray, List.set_cons_zero, List.set_cons_succ]
    refine wq_skip (by kernel_rfl) ?_
    simp only [Act.put, List.setIfInBounds_toArray, List.set_cons_zero, List.set_cons_succ]
    refine wq_skip (by kernel_rfl) ?_
    simp only [Act.put, List.setIfInBounds_toArray, List.set_cons_zero, List.set_cons_succ]
    refine wq_skip (by kernel_rfl) ?_
    simp only [Act.put, List.setIfInBounds_toArray, List.set_cons_zero, List.set_cons_succ]
    refine wq_skip (by kernel_rfl) ?_
    simp only [Act.put, List.setIfInBounds_toArray, List.set_cons_zero, List.set_cons_succ]
    refine wq_skip (by kernel_rfl) ?_
    simp only [Act.put, List.setIfInBounds_toArray, List.set_cons_zero, List.set_cons_succ]
    refine wq_skip (by kernel_rfl) ?_
    simp only [Act.put, List.setIfInBounds_toArray, List.set_cons_zero, List.set_cons_succ]
    refine wq_skip (by kernel_rfl) ?_
    simp only [Act.put, List.setIfInBounds_toArray, List.set_cons_zero, List.set_cons_succ]
    refine wq_pick rfl (.tmp 35) (.tmp 43) (.const (.bool false)) rfl false rfl (.bool false) rfl ?_
    simp only [Act.put, List.setIfInBounds_toArray, List.set_cons_zero, List.set_cons_succ]
    refine wq_pick rfl (.tmp 31) (.const (.bool true)) (.tmp 44) rfl false rfl (.bool false) rfl ?_
    simp only [Act.put, List.setIfInBounds_toArray, List.set_cons_zero, List.set_cons_succ]
    refine wq_nil ?_
    intro y1 hb
    have X_y1 := Lib.hid (X_62.out.keep hb)
    have Y_y1 := Lib.hid (Y_62.out.keep hb)
    have D_y1 := Lib.hid (D_62.out.keep hb)
    have HB_y1 : Hid (Below w.heap.size w y1) := Lib.hid (HB_62.out.trans (hb.mono HB_62.out.size))
    clear hb HB_62 X_62 Y_62 D_62
    go_wp2_with fail
    refine region_wq (by kernel_rfl) (by kernel_rfl) ?_
    refine wq_load rfl (.tmp 5) rfl (g5) a rfl X_y1.out ?_
    simp only [Act.put, List.setIfInBounds_toArray, List.set_cons_zero, List.set_cons_succ]
    refine wq_load rfl (.tmp 6) rfl (g6) b rfl Y_y1.out ?_
    simp only [Act.put, List.setIfInBounds_toArray, List.set_cons_zero, List.set_cons_succ]
    refine wq_call rfl 23 [.tmp 46, .tmp 47] #[23, 23] rfl [vN a, vN b] rfl (CF23 _) (vN sm) C4.out ?_
    simp only [Act.put, List.setIfInBounds_toArray, List.set_cons_zero, List.set_cons_succ]
    refine wq_move rfl (.tmp 0) rfl (.int .u32 (a : Nat)) rfl ?_
    simp only [Act.put, List.setIfInBounds_toArray, List.set_cons_zero, List.set_cons_succ]
    refine wq_conv rfl (.tmp 49) rfl (a) (by have := HA.out; have := HB'.out; omega) rfl ?_
    simp only [Act.put, List.setIfInBounds_toArray, List.set_cons_zero, List.set_cons_succ]
    refine wq_move rfl (.tmp 1) rfl (.int .u32 (b : Nat)) rfl ?_
    simp only [Act.put, List.setIfInBounds_toArray, List.set_cons_zero, List.set_cons_succ]
    refine wq_conv rfl (.tmp 51) rfl (b) (by have := HA.out; have := HB'.out; omega) rfl ?_
    simp only [Act.put, List.setIfInBounds_toArray, List.set_cons_zero, List.set_cons_succ]
    refine wq_bin (P := Try.prog) rfl .add 30 30 (.tmp 50) (.tmp 52) rfl (.int .u64 (a : Nat)) (.int .u64 (b : Nat)) (.int .u64 (a + b : Nat)) rfl rfl (fun _ => rfl) (run_add64 (a) (b) (by have := HA.out; have := HB'.out; omega)) ?_
    simp only [Act.put, List.setIfInBounds_toArray, List.set_cons_zero, List.set_cons_succ]
    refine wq_call rfl 14 [.tmp 53] #[30] rfl [.int .u64 (a + b : Nat)] rfl (CF14 _) (vN sm) C5.out ?_
    simp only [Act.put, List.setIfInBounds_toArray, List.set_cons_zero, List.set_cons_succ]
    refine wq_eq rfl (.tmp 48) (.tmp 54) rfl sm sm rfl rfl true (eqN_same _) ?_
    simp only [Act.put, List.setIfInBounds_toArray, List.set_cons_zero, List.set_cons_succ]
    refine wq_move rfl (.tmp 55) rfl (.bool true) rfl ?_
    simp only [Act.put, List.setIfInBounds_toArray, List.set_cons_zero, List.set_cons_succ]
    refine wq_load rfl (.tmp 5) rfl (g5) a rfl X_y1.out ?_
    simp only [Act.put, List.setIfInBounds_toArray, List.set_cons_zero, List.set_cons_succ]
    refine wq_load rfl (.tmp 6) rfl (g6) b rfl Y_y1.out ?_
    simp only [Act.put, List.setIfInBounds_toArray, List.set_cons_zero, List.set_cons_succ]
    refine wq_call rfl 28 [.tmp 57, .tmp 58] #[23, 23] rfl [vN a, vN b] rfl (CF28 _) (vN pr) C6.out ?_
    simp only [Act.put, List.setIfInBounds_toArray, List.set_cons_zero, List.set_cons_succ]
    refine wq_move rfl (.tmp 0) rfl (.int .u32 (a : Nat)) rfl ?_
    simp only [Act.put, List.setIfInBounds_toArray, List.set_cons_zero, List.set_cons_succ]
    refine wq_conv rfl (.tmp 60) rfl (a) (by have := HA.out; have := HB'.out; omega) rfl ?_
    simp only [Act.put, List.setIfInBounds_toArray, List.set_cons_zero, List.set_cons_succ]
    refine wq_move rfl (.tmp 1) rfl (.int .u32 (b : Nat)) rfl ?_
    simp only [Act.put, List.setIfInBounds_toArray, List.set_cons_zero, List.set_cons_succ]
    refine wq_conv rfl (.tmp 62) rfl (b) (by have := HA.out; have := HB'.out; omega) rfl ?_
    simp only [Act.put, List.setIfInBounds_toArray, List.set_cons_zero, List.set_cons_succ]
    refine wq_bin (P := Try.prog) rfl .mul 30 30 (.tmp 61) (.tmp 63) rfl (.int .u64 (a : Nat)) (.int .u64 (b : Nat)) (.int .u64 (a * b : Nat)) rfl rfl (fun _ => rfl) (run_mul64 (a) (b) (HMab.out)) ?_
    simp only [Act.put, List.setIfInBounds_toArray, List.set_cons_zero, List.set_cons_succ]
    refine wq_call rfl 14 [.tmp 64] #[30] rfl [.int .u64 (a * b : Nat)] rfl (CF14 _) (vN pr) C7.out ?_
    simp only [Act.put, List.setIfInBounds_toArray, List.set_cons_zero, List.set_cons_succ]
    refine wq_eq rfl (.tmp 59) (.tmp 65) rfl pr pr rfl rfl true (eqN_same _) ?_
    simp only [Act.put, List.setIfInBounds_toArray, List.set_cons_zero, List.set_cons_succ]
    refine wq_pick rfl (.tmp 56) (.tmp 66) (.const (.bool false)) rfl true rfl (.bool true) rfl ?_
    simp only [Act.put, List.setIfInBounds_toArray, List.set_cons_zero, List.set_cons_succ]
    refine wq_move rfl (.tmp 67) rfl (.bool true) rfl ?_
    simp only [Act.put, List.setIfInBounds_toArray, List.set_cons_zero, List.set_cons_succ]
    refine wq_load rfl (.tmp 5) rfl (g5) a rfl X_y1.out ?_
    simp only [Act.put, List.setIfInBounds_toArray, List.set_cons_zero, List.set_cons_succ]
    refine wq_call rfl 17 [.tmp 69] #[23] rfl [vN a] rfl (CF17 _) (.bool (decide (a % 2 = 1))) C8.out ?_
    simp only [Act.put, List.setIfInBounds_toArray, List.set_cons_zero, List.set_cons_succ]
    refine wq_move rfl (.tmp 0) rfl (.int .u32 (a : Nat)) rfl ?_
    simp only [Act.put, List.setIfInBounds_toArray, List.set_cons_zero, List.set_cons_succ]
    refine wq_bin (P := Try.prog) rfl .rem 35 35 (.tmp 71) (.const (.int .u32 2)) rfl (.int .u32 (a : Nat)) (.int .u32 2) (.int .u32 (a % 2 : Nat)) rfl rfl (fun _ => rfl) (run_rem32 (a)) ?_
    simp only [Act.put, List.setIfInBounds_toArray, List.set_cons_zero, List.set_cons_succ]
    refine wq_bin (P := Try.prog) rfl .eql 35 35 (.tmp 72) (.const (.int .u32 1)) rfl (.int .u32 (a % 2 : Nat)) (.int .u32 1) (.bool (decide (a % 2 = 1))) rfl rfl (fun _ => rfl) (run_eql32 (a % 2) (1)) ?_
    simp only [Act.put, List.setIfInBounds_toArray, List.set_cons_zero, List.set_cons_succ]
    refine wq_eqb (P := Try.prog) rfl (.tmp 70) (.tmp 73) rfl ((decide (a % 2 = 1))) ((decide (a % 2 = 1))) true rfl rfl (beq_self_eq_true _) ?_
    simp only [Act.put, List.setIfInBounds_toArray, List.set_cons_zero, List.set_cons_succ]
    refine wq_pick rfl (.tmp 68) (.tmp 74) (.const (.bool false)) rfl true rfl (.bool true) rfl ?_
    simp only [Act.put, List.setIfInBounds_toArray, List.set_cons_zero, List.set_cons_succ]
    refine wq_move rfl (.tmp 75) rfl (.bool true) rfl ?_
    simp only [Act.put, List.setIfInBounds_toArray, List.set_cons_zero, List.set_cons_succ]
    refine wq_load rfl (.tmp 5) rfl (g5) a rfl X_y1.out ?_
    simp only [Act.put, List.setIfInBounds_toArray, List.set_cons_zero, List.set_cons_succ]
    refine wq_load rfl (.tmp 6) rfl (g6) b rfl Y_y1.out ?_
    simp only [Act.put, List.setIfInBounds_toArray, List.set_cons_zero, List.set_cons_succ]
    refine wq_call rfl 18 [.tmp 77, .tmp 78] #[23, 23] rfl [vN a, vN b] rfl (CF18 _) (.bool (decide (a = b))) C9.out ?_
    simp only [Act.put, List.setIfInBounds_toArray, List.set_cons_zero, List.set_cons_succ]
    refine wq_move rfl (.tmp 0) rfl (.int .u32 (a : Nat)) rfl ?_
    simp only [Act.put, List.setIfInBounds_toArray, List.set_cons_zero, List.set_cons_succ]
    refine wq_move rfl (.tmp 1) rfl (.int .u32 (b : Nat)) rfl ?_
    simp only [Act.put, List.setIfInBounds_toArray, List.set_cons_zero, List.set_cons_succ]
    refine wq_bin (P := Try.prog) rfl .eql 35 35 (.tmp 80) (.tmp 81) rfl (.int .u32 (a : Nat)) (.int .u32 (b : Nat)) (.bool (decide (a = b))) rfl rfl (fun _ => rfl) (run_eql32 (a) (b)) ?_
    simp only [Act.put, List.setIfInBounds_toArray, List.set_cons_zero, List.set_cons_succ]
    refine wq_eqb (P := Try.prog) rfl (.tmp 79) (.tmp 82) rfl ((decide (a = b))) ((decide (a = b))) true rfl rfl (beq_self_eq_true _) ?_
    simp only [Act.put, List.setIfInBounds_toArray, List.set_cons_zero, List.set_cons_succ]
    refine wq_pick rfl (.tmp 76) (.tmp 83) (.const (.bool false)) rfl true rfl (.bool true) rfl ?_
    simp only [Act.put, List.setIfInBounds_toArray, List.set_cons_zero, List.set_cons_succ]
    refine wq_move rfl (.tmp 84) rfl (.bool true) rfl ?_
    simp only [Act.put, List.setIfInBounds_toArray, List.set_cons_zero, List.set_cons_succ]
    refine wq_load rfl (.tmp 5) rfl (g5) a rfl X_y1.out ?_
    simp only [Act.put, List.setIfInBounds_toArray, List.set_cons_zero, List.set_cons_succ]
    refine wq_call rfl 14 [.const (.int .u64 2)] #[30] rfl [.int .u64 2] rfl (CF14 _) (vN 2) C10.out ?_
    simp only [Act.put, List.setIfInBounds_toArray, List.set_cons_zero, List.set_cons_succ]
    refine wq_call rfl 16 [.tmp 86, .tmp 87] #[23, 23] rfl [vN a, vN 2] rfl (CF16 _) (vN sq) C12.out ?_
    simp only [Act.put, List.setIfInBounds_toArray, List.set_cons_zero, List.set_cons_succ]
    refine wq_move rfl (.tmp 0) rfl (.int .u32 (a : Nat)) rfl ?_
    simp only [Act.put, List.setIfInBounds_toArray, List.set_cons_zero, List.set_cons_succ]
    refine wq_conv rfl (.tmp 89) rfl (a) (by have := HA.out; have := HB'.out; omega) rfl ?_
    simp only [Act.put, List.setIfInBounds_toArray, List.set_cons_zero, List.set_cons_succ]
    refine wq_move rfl (.tmp 0) rfl (.int .u32 (a : Nat)) rfl ?_
    simp only [Act.put, List.setIfInBounds_toArray, List.set_cons_zero, List.set_cons_succ]
    refine wq_conv rfl (.tmp 91) rfl (a) (by have := HA.out; have := HB'.out; omega) rfl ?_
    simp only [Act.put, List.setIfInBounds_toArray, List.set_cons_zero, List.set_cons_succ]
    refine wq_bin (P := Try.prog) rfl .mul 30 30 (.tmp 90) (.tmp 92) rfl (.int .u64 (a : Nat)) (.int .u64 (a : Nat)) (.int .u64 (a * a : Nat)) rfl rfl (fun _ => rfl) (run_mul64 (a) (a) (HMaa.out)) ?_
    simp only [Act.put, List.setIfInBounds_toArray, List.set_cons_zero, List.set_cons_succ]
    refine wq_call rfl 14 [.tmp 93] #[30] rfl [.int .u64 (a * a : Nat)] rfl (CF14 _) (vN sq) C13.out ?_
    simp only [Act.put, List.setIfInBounds_toArray, List.set_cons_zero, List.set_cons_succ]
    refine wq_eq rfl (.tmp 88) (.tmp 94) rfl sq sq rfl rfl true (eqN_same _) ?_
    simp only [Act.put, List.setIfInBounds_toArray, List.set_cons_zero, List.set_cons_succ]
    refine wq_pick rfl (.tmp 85) (.tmp 95) (.const (.bool false)) rfl true rfl (.bool true) rfl ?_
    simp only [Act.put, List.setIfInBounds_toArray, List.set_cons_zero, List.set_cons_succ]
    refine wq_move rfl (.tmp 96) rfl (.bool true) rfl ?_
    simp only [Act.put, List.setIfInBounds_toArray, List.set_cons_zero, List.set_cons_succ]
    refine wq_load rfl (.tmp 5) rfl (g5) a rfl X_y1.out ?_
    simp only [Act.put, List.setIfInBounds_toArray, List.set_cons_zero, List.set_cons_succ]
    refine wq_call rfl 14 [.const (.int .u64 1)] #[30] rfl [.int .u64 1] rfl (CF14 _) (vN 1) C11.out ?_
    simp only [Act.put, List.setIfInBounds_toArray, List.set_cons_zero, List.set_cons_succ]
    refine wq_call rfl 16 [.tmp 98, .tmp 99] #[23, 23] rfl [vN a, vN 1] rfl (CF16 _) (vN a) C14.out ?_
    simp only [Act.put, List.setIfInBounds_toArray, List.set_cons_zero, List.set_cons_succ]
    refine wq_load rfl (.tmp 5) rfl (g5) a rfl X_y1.out ?_
    simp only [Act.put, List.setIfInBounds_toArray, List.set_cons_zero, List.set_cons_succ]
    refine wq_eq rfl (.tmp 100) (.tmp 101) rfl a a rfl rfl true (eqN_same _) ?_
    simp only [Act.put, List.setIfInBounds_toArray, List.set_cons_zero, List.set_cons_succ]
    refine wq_pick rfl (.tmp 97) (.tmp 102) (.const (.bool false)) rfl true rfl (.bool true) rfl ?_
    simp only [Act.put, List.setIfInBounds_toArray, List.set_cons_zero, List.set_cons_succ]
    refine wq_move rfl (.tmp 103) rfl (.bool true) rfl ?_
    simp only [Act.put, List.setIfInBounds_toArray, List.set_cons_zero, List.set_cons_succ]
    refine wq_load rfl (.tmp 5) rfl (g5) a rfl X_y1.out ?_
    simp only [Act.put, List.setIfInBounds_toArray, List.set_cons_zero, List.set_cons_succ]
    refine wq_call rfl 12 [.tmp 105] #[23] rfl [vN a] rfl (CF12 _) (.bool true) C15.out ?_
    simp only [Act.put, List.setIfInBounds_toArray, List.set_cons_zero, List.set_cons_succ]
    refine wq_pick rfl (.tmp 104) (.tmp 106) (.const (.bool false)) rfl true rfl (.bool true) rfl ?_
    simp only [Act.put, List.setIfInBounds_toArray, List.set_cons_zero, List.set_cons_succ]
    refine wq_assign rfl (.tmp 107) rfl (.bool true) rfl ?_
    simp only [Act.put, List.setIfInBounds_toArray, List.set_cons_zero, List.set_cons_succ]
    refine wq_nil ?_
    intro y2 hb
    have HBW : Hid (Below w.heap.size w y2) := Lib.hid (HB_y1.out.trans (hb.mono HB_y1.out.size))
    clear hb HB_y1 X_y1 Y_y1 D_y1
    go_wp2
    go_ret
    exact ⟨rfl, HBW.out⟩

theorem gives_eq {f : FuncId} {args : Array Value} {x y : Nat} {w : World} (e : x = y) (h : Calls Try.prog f args w (Gives (vN x) w)) : Calls Try.prog f args w (Gives (vN y) w) := e ▸ h
theorem P_big : 340282366920938463463374607431768211456 < PP := by unfold PP; omega
theorem oT : 1 < TT := by unfold TT; omega

theorem walkN (a b : Nat) (ha : a < 4294967296) (hb : b < 4294967296) (w : World) : Calls Try.prog 8 #[.int .u32 (a : Nat), .int .u32 (b : Nat)] w (Gives (.bool true) w) := by
  have hab : a * b < 18446744073709551616 := Nat.lt_of_le_of_lt (Nat.mul_le_mul (Nat.le_of_lt_succ (show a < 4294967295 + 1 from ha)) (Nat.le_of_lt_succ (show b < 4294967295 + 1 from hb))) (by decide)
  have haa : a * a < 18446744073709551616 := Nat.lt_of_le_of_lt (Nat.mul_le_mul (Nat.le_of_lt_succ (show a < 4294967295 + 1 from ha)) (Nat.le_of_lt_succ (show a < 4294967295 + 1 from ha))) (by decide)
  have haT : a < TT := by have := P_big; have := PP_lt; omega
  have hbT : b < TT := by have := P_big; have := PP_lt; omega
  have ham : a % PP = a := Nat.mod_eq_of_lt (by have := P_big; omega)
  have hbm : b % PP = b := Nat.mod_eq_of_lt (by have := P_big; omega)
  have hC0 : ∀ w, Calls Try.prog 10 #[] w (Gives (.bool true) w) := lives_any
  have hC1 : ∀ w, Calls Try.prog 14 #[.int .u64 (a : Nat)] w (Gives (vN a) w) := fun w => gives_eq (rfl) (Of_any a (by omega) w)
  have hC2 : ∀ w, Calls Try.prog 14 #[.int .u64 (b : Nat)] w (Gives (vN b) w) := fun w => gives_eq (rfl) (Of_any b (by omega) w)
  have hC3 : ∀ w, Calls Try.prog 25 #[vN a, vN b] w (Gives (vN ((a + (PP - b % PP)) % PP)) w) := fun w => gives_eq (rfl) (Sub_any a b haT hbT w)
  have hC4 : ∀ w, Calls Try.prog 23 #[vN a, vN b] w (Gives (vN (a + b)) w) := fun w => gives_eq (Nat.mod_eq_of_lt (by have := P_big; omega)) (Add_any a b haT hbT w)
  have hC5 : ∀ w, Calls Try.prog 14 #[.int .u64 (a + b : Nat)] w (Gives (vN (a + b)) w) := fun w => gives_eq (rfl) (Of_any (a + b) (by omega) w)
  have hC6 : ∀ w, Calls Try.prog 28 #[vN a, vN b] w (Gives (vN (a * b)) w) := fun w => gives_eq (Nat.mod_eq_of_lt (by have := P_big; omega)) (Mul_any a b haT hbT w)
  have hC7 : ∀ w, Calls Try.prog 14 #[.int .u64 (a * b : Nat)] w (Gives (vN (a * b)) w) := fun w => gives_eq (rfl) (Of_any (a * b) hab w)
  have hC8 : ∀ w, Calls Try.prog 17 #[vN a] w (Gives (.bool (decide (a % 2 = 1))) w) := fun w => by
    have h := Odd_any a haT w
    rw [ham] at h
    exact h
  have hC9 : ∀ w, Calls Try.prog 18 #[vN a, vN b] w (Gives (.bool (decide (a = b))) w) := fun w => by
    have h := Same_any a b haT hbT w
    rw [ham, hbm] at h
    exact h
  have hC10 : ∀ w, Calls Try.prog 14 #[.int .u64 2] w (Gives (vN 2) w) := fun w => gives_eq (rfl) (Of_any 2 (by omega) w)
  have hC11 : ∀ w, Calls Try.prog 14 #[.int .u64 1] w (Gives (vN 1) w) := fun w => gives_eq (rfl) (Of_any 1 (by omega) w)
  have hC12 : ∀ w, Calls Try.prog 16 #[vN a, vN 2] w (Gives (vN (a * a)) w) := fun w => gives_eq ((by rw [Nat.pow_two]; exact Nat.mod_eq_of_lt (by have := P_big; omega))) (Pow_any a 2 haT (by unfold TT; omega) w)
  have hC13 : ∀ w, Calls Try.prog 14 #[.int .u64 (a * a : Nat)] w (Gives (vN (a * a)) w) := fun w => gives_eq (rfl) (Of_any (a * a) haa w)
  have hC14 : ∀ w, Calls Try.prog 16 #[vN a, vN 1] w (Gives (vN a) w) := fun w => gives_eq ((by rw [Nat.pow_one]; exact Nat.mod_eq_of_lt (by have := P_big; omega))) (Pow_any a 1 haT oT w)
  have hC15 : ∀ w, Calls Try.prog 12 #[vN a] w (Gives (.bool true) w) := fun w => by
    have h := Canon_any a haT w
    rw [ham, decide_eq_true rfl] at h
    exact h
  have hGE : b ≤ a → ∀ w, Calls Try.prog 14 #[.int .u64 (a - b : Nat)] w (Gives (vN ((a + (PP - b % PP)) % PP)) w) := fun h w => by
    refine gives_eq ?_ (Of_any (a - b) (by omega) w)
    rw [hbm, show a + (PP - b) = a - b + PP from by have := P_big; omega, Nat.add_mod_right]
    exact (Nat.mod_eq_of_lt (by have := P_big; omega)).symm
  have hLT : a < b → (∀ w, Calls Try.prog 14 #[.int .u64 (b - a : Nat)] w (Gives (vN (b - a)) w)) ∧ ∀ w, Calls Try.prog 13 #[vN (b - a)] w (Gives (vN ((a + (PP - b % PP)) % PP)) w) := fun h => ⟨fun w => Of_any (b - a) (by omega) w, fun w => by
    refine gives_eq ?_ (Neg_any (b - a) (by omega) w)
    rw [hbm, Nat.mod_eq_of_lt (show b - a < PP by have := P_big; omega), show PP - (b - a) = a + (PP - b) from by have := P_big; omega]⟩
  exact small_core a b ((a + (PP - b % PP)) % PP) (b - a) (a + b) (a * b) (a * a) w (Lib.hid ha) (Lib.hid hb) (Lib.hid hab) (Lib.hid haa) (Lib.hid hC0) (Lib.hid hC1) (Lib.hid hC2) (Lib.hid hC3) (Lib.hid hC4) (Lib.hid hC5) (Lib.hid hC6) (Lib.hid hC7) (Lib.hid hC8) (Lib.hid hC9) (Lib.hid hC10) (Lib.hid hC11) (Lib.hid hC12) (Lib.hid hC13) (Lib.hid hC14) (Lib.hid hC15) (Lib.hid hGE) (Lib.hid hLT)

theorem walk (a0 : Int) (a1 : Int) (w : World) (w0 : (Lit.int .u32 a0).wf = true) (w1 : (Lit.int .u32 a1).wf = true) :
    Calls Try.prog 8 #[.int .u32 a0, .int .u32 a1] w fun e w' => e = .returned (.bool true) ∧ Below w.heap.size w w' := by
  have b0 := bounds_u32 w0
  have b1 := bounds_u32 w1
  obtain ⟨n, rfl⟩ := Int.eq_ofNat_of_zero_le b0.1
  obtain ⟨m, rfl⟩ := Int.eq_ofNat_of_zero_le b1.1
  exact walkN n m (by omega) (by omega) w

set_option maxRecDepth 100000 in
theorem lifted (os : Os) (started : os.Started) (H : Type) (enc : TypeId × Value → H) :
    ReturnsInHanded {} Try.checked os 8 .any (Rows.fieldSmallSpec.pre6 enc Try.prog Try.f8 Rows.fieldSmallRow.domain false) (Rows.fieldSmallSpec.post enc Try.prog Try.f8 false true false false) := by
  refine returnsInHanded_of_change (C := Try.checked) own started (by kernel_rfl) Try.func8
    (ChangeSpec.witness6 (enc := enc) (C := Try.checked) false ⟨#[], #[.int .u32 0, .int .u32 0], []⟩ 8 (by kernel_rfl) (by kernel_rfl) (by kernel_rfl) (by kernel_rfl)) ?_
  intro W base args ds gs before hval0 hW hcnd _
  have hval : ∀ (j : Nat) t v, Try.f8.params[j]? = some t → args[j]? = some v → Value.okWide Try.prog W .any base t v := hval0
  have hW' := hW
  obtain ⟨p, q, hA0, hV, rfl, hfz, hnd⟩ := hW
  have hA : DataW.TrodAll enc Try.prog W 0 (fun _ => true) true Try.f8.params.toList args.toList ds p := hA0
  rw [Try.params8] at hA hval
  obtain ⟨v0, vs0, d0, ds0, p0, q0, hargs, rfl, rfl, h0, r0⟩ := trodAll_cons hA
  obtain ⟨v1, vs1, d1, ds1, p1, q1, rfl, rfl, rfl, h1, r1⟩ := trodAll_cons r0
  obtain ⟨rfl, rfl, rfl⟩ := trodAll_nil r1
  obtain rfl : args = #[v0, v1] := by cases args; simp_all
  obtain ⟨rfl, rfl⟩ := trodVars_none hV
  obtain ⟨a0, rfl, rfl, rfl, w0⟩ := open_int Try.underlying35 (hval 0 35 v0 rfl rfl) h0
  obtain ⟨a1, rfl, rfl, rfl, w1⟩ := open_int Try.underlying35 (hval 1 35 v1 rfl rfl) h1
  clear hA0 hval0
  refine (walk a0 a1 W w0 w1).mono fun e W' ⟨he, bel⟩ => ?_
  subst he
  exact ⟨_, rfl, _, _, _, [], _, [], hW', trodAll_mk1 (shut_bool Try.underlying4 _), (trodAll_cons_mk (shut_int Try.underlying35 w0) (trodAll_cons_mk (shut_int Try.underlying35 w1) trodAll_mk0)), rfl, bel.frame _, fun h => by cases h⟩

theorem over : Rows.fieldSmallRow.holds Try.pinned (OpenSpec.ofChange Rows.fieldSmallSpec) :=
  OpenClaim.holds_of_wide 8 Try.f8 rfl rfl rfl rfl rfl rfl rfl ⟨rfl, rfl, rfl, rfl, rfl⟩ rfl rfl rfl rfl rfl (by kernel_rfl) Try.func8 (by kernel_rfl)
    (of_decide_eq_true (by kernel_rfl)) (by unfold Func.isWrapper; first | (rw [if_pos (by decide +kernel)]; kernel_rfl) | (rw [if_neg (by decide +kernel)]; exact ⟨rfl, rfl⟩))
    (fun os started H enc _ => lifted os started H enc)

/-- The statement. -/
theorem proved : Rows.FieldSmallSaid := over
#print axioms proved
end Go.Proofs.Ytlkjengcmlfknaa.fieldSmall
