/- It is proved that CurveSmalls returns true for any two points, valid or not, and any number: small points are those whose eightfold is Zero, they are closed under sums, and a multiple of the base point is small only if it is Zero. Conditions: none. -/
import Derived.Test.YtgdimnbdnepbgaaRows
import Derived.Test.YtgdimnbdnepbgaaM5
import Derived.Test.YtgdimnbdnepbgaaM7
import Derived.ProofKit
import Derived.OpenShut
import Derived.ChangeOld
namespace Go.Proofs.Ytgdimnbdnepbgaa.curveSmalls
open Go.ChangeShapes Go.WideShapes Go.ChangeAt Go.RowKit
set_option linter.unusedVariables false
set_option linter.unusedSimpArgs false

theorem own : ownKnob Try.prog.godebug = none := by kernel_rfl
theorem laidOut : laidOutB Try.prog = true := by kernel_rfl

theorem alloc_zeroP (w : World) : ∃ w', w' = w.alloc (.cells (Value.agg (zbs 64)).cells 35) ∧ Below w.heap.size w w' ∧ w'.heap[w.heap.size]? = some (.cells (zbs 64) 35 (0, 0)) := ⟨_, rfl, below_alloc _ _, heap_alloc_new _ _⟩
theorem run_neqB (a : Bool) (w : World) : (binOp .neq 4 (.bool a) (.bool a)).run Try.prog w = .ok (.bool false) w := by cases a <;> kernel_rfl

set_option maxHeartbeats 8000000 in
set_option maxRecDepth 100000 in
theorem smalls_core_true (a r px py qx qy tx ty fx fy ex ey sx sy nx ny gx gy bx by_ : Nat) (sq c : Bool) (w : World)
    (C0 : Hid (∀ w, Calls Try.prog 38 #[] w (Gives (.bool true) w)))
    (C1 : Hid (∀ w, Calls Try.prog 40 #[vR [px, py]] w (Gives (.int .i64 0) w)))
    (C2 : Hid (∀ w, Calls Try.prog 40 #[vR [qx, qy]] w (Gives (.int .i64 0) w)))
    (C3 : Hid (∀ w, Calls Try.prog 44 #[vR [px, py], vR [px, py]] w (Gives (vR [tx, ty]) w)))
    (C4 : Hid (∀ w, Calls Try.prog 44 #[vR [tx, ty], vR [tx, ty]] w (Gives (vR [fx, fy]) w)))
    (C5 : Hid (∀ w, Calls Try.prog 43 #[vR [px, py]] w (Gives (.bool true) w)))
    (C6 : Hid (∀ w, Calls Try.prog 44 #[vR [fx, fy], vR [fx, fy]] w (Gives (vR [ex, ey]) w)))
    (C7 : Hid (∀ w, Calls Try.prog 39 #[] w (Gives (vR [0, 1]) w)))
    (C8 : Hid (∀ w, Calls Try.prog 43 #[vR [qx, qy]] w (Gives (.bool sq) w)))
    (C9 : Hid (∀ w, Calls Try.prog 44 #[vR [px, py], vR [qx, qy]] w (Gives (vR [sx, sy]) w)))
    (C10 : Hid (∀ w, Calls Try.prog 43 #[vR [sx, sy]] w (Gives (.bool sq) w)))
    (C11 : Hid (∀ w, Calls Try.prog 51 #[vR [px, py]] w (Gives (vR [nx, ny]) w)))
    (C12 : Hid (∀ w, Calls Try.prog 43 #[vR [nx, ny]] w (Gives (.bool true) w)))
    (C13 : Hid (∀ w, Calls Try.prog 42 #[] w (Gives (vR [gx, gy]) w)))
    (C14 : Hid (∀ w, Calls Try.prog 41 #[vN a, vR [gx, gy]] w (Gives (vR [bx, by_]) w)))
    (C15 : Hid (∀ w, Calls Try.prog 43 #[vR [bx, by_]] w (Gives (.bool c) w)))
    (CR : Hid (∀ (w : World) (g : Nat), RAt w g [a] → Calls Try.prog 60 #[.slice (some ⟨g, 0, none⟩) 32 32] w (Gives (.tuple #[vN r, .int .i64 0]) w)))
    (HE : Hid (∀ w, (Op.equalIn 10000 35 (vR [ex, ey]) (vR [0, 1])).run Try.prog w = .ok true w)) (HB : Hid (∀ w, (Op.equalIn 10000 35 (vR [bx, by_]) (vR [0, 1])).run Try.prog w = .ok c w)) (HR : Hid (∀ w, (Op.equalIn 10000 23 (vN r) (vN 0)).run Try.prog w = .ok c w)) :
    Calls Try.prog 9 #[vR [px, py], vR [qx, qy], vN a] w (Gives (.bool true) w) := by
  have HF_0 : Hid (Below w.heap.size w w) := Lib.hid (Below.refl _ _)
  go_enter Try.func9, Try.ntmps9
  go_wp2_with (first | ((with_reducible show wpList _ _ _ (⟨some 3, .box 35 (.tmp 0), _, _, _, _⟩ :: _) _ _); go_must (refine wpList_box_row rfl 35 (.tmp 0) rfl (bcs (encs [px, py])).toArray rfl ?_; intro u1 ha1 hza1 hga1; have Ngp_1 : Hid (RAt u1 w.heap.size [px, py]) := Lib.hid (⟨_, ha1⟩); have HF_1 : Hid (Below w.heap.size w u1) := Lib.hid (HF_0.out.grown hga1 HF_0.out.size (by simp)); have HGE1 : Hid (w.heap.size ≤ w.heap.size) := Lib.hid HF_0.out.size; clear ha1 hza1 hga1 HF_0)) | ((with_reducible show wpList _ _ _ (⟨some 4, .box 35 (.tmp 1), _, _, _, _⟩ :: _) _ _); go_must (refine wpList_box_row rfl 35 (.tmp 1) rfl (bcs (encs [qx, qy])).toArray rfl ?_; intro u2 ha2 hza2 hga2; have Ngp_2 := Lib.hid (Ngp_1.out.grown hga2 (by simp)); have Ngq_2 : Hid (RAt u2 u1.heap.size [qx, qy]) := Lib.hid (⟨_, ha2⟩); have HF_2 : Hid (Below w.heap.size w u2) := Lib.hid (HF_1.out.grown hga2 HF_1.out.size (by simp)); have HNE2_0 : Hid (w.heap.size ≠ u1.heap.size) := Lib.hid (by have := Ngp_1.out.lt; omega); have HGE2 : Hid (w.heap.size ≤ u1.heap.size) := Lib.hid HF_1.out.size; clear ha2 hza2 hga2 Ngp_1 HF_1)) | ((with_reducible show wpList _ _ _ (⟨some 5, .box 23 (.tmp 2), _, _, _, _⟩ :: _) _ _); go_must (refine wpList_box_row rfl 23 (.tmp 2) rfl (bcs (enc a)).toArray rfl ?_; intro u3 ha3 hza3 hga3; have Ngp_3 := Lib.hid (Ngp_2.out.grown hga3 (by simp)); have Ngq_3 := Lib.hid (Ngq_2.out.grown hga3 (by simp)); have Nga_3 : Hid (RAt u3 u2.heap.size [a]) := Lib.hid (NAt.row ⟨_, ha3⟩); have HF_3 : Hid (Below w.heap.size w u3) := Lib.hid (HF_2.out.grown hga3 HF_2.out.size (by simp)); have HNE3_1 : Hid (w.heap.size ≠ u2.heap.size) := Lib.hid (by have := Ngp_2.out.lt; omega); have HNE3_2 : Hid (u1.heap.size ≠ u2.heap.size) := Lib.hid (by have := Ngq_2.out.lt; omega); have HGE3 : Hid (w.heap.size ≤ u2.heap.size) := Lib.hid HF_2.out.size; clear ha3 hza3 hga3 Ngp_2 Ngq_2 HF_2)) | fail)
  generalize u1.heap.size = gq at *
  generalize u2.heap.size = ga at *
  refine (C0.out _).mono ?_
  rintro e4 x4 ⟨rfl, hb4⟩
  have Ngp_4 := Lib.hid (Ngp_3.out.keep hb4)
  have Ngq_4 := Lib.hid (Ngq_3.out.keep hb4)
  have Nga_4 := Lib.hid (Nga_3.out.keep hb4)
  have HF_4 : Hid (Below w.heap.size w x4) := Lib.hid (HF_3.out.trans (hb4.mono HF_3.out.size))
  clear hb4 Ngp_3 Ngq_3 Nga_3 HF_3
  go_wp2_with (first | ((with_reducible show wpList _ _ _ (⟨_, .load 35 (.tmp 3), _, _, _, _⟩ :: _) _ _); go_must (refine wpList_exec rfl (vR [px, py]) (exec_loadP (.tmp 3) rfl (w.heap.size) px py rfl Ngp_4.out) ?_)) | fail)
  refine (C1.out _).mono ?_
  rintro e5 x5 ⟨rfl, hb5⟩
  have Ngp_5 := Lib.hid (Ngp_4.out.keep hb5)
  have Ngq_5 := Lib.hid (Ngq_4.out.keep hb5)
  have Nga_5 := Lib.hid (Nga_4.out.keep hb5)
  have HF_5 : Hid (Below w.heap.size w x5) := Lib.hid (HF_4.out.trans (hb5.mono HF_4.out.size))
  clear hb5 Ngp_4 Ngq_4 Nga_4 HF_4
  go_wp2_with (first | ((with_reducible show wpList _ _ _ (⟨_, .load 35 (.tmp 4), _, _, _, _⟩ :: _) _ _); go_must (refine wpList_exec rfl (vR [qx, qy]) (exec_loadP (.tmp 4) rfl (gq) qx qy rfl Ngq_5.out) ?_)) | fail)
  refine (C2.out _).mono ?_
  rintro e6 x6 ⟨rfl, hb6⟩
  have Ngp_6 := Lib.hid (Ngp_5.out.keep hb6)
  have Ngq_6 := Lib.hid (Ngq_5.out.keep hb6)
  have Nga_6 := Lib.hid (Nga_5.out.keep hb6)
  have HF_6 : Hid (Below w.heap.size w x6) := Lib.hid (HF_5.out.trans (hb6.mono HF_5.out.size))
  clear hb6 Ngp_5 Ngq_5 Nga_5 HF_5
  go_wp2_with (first | ((with_reducible show wpList _ _ _ (⟨_, .load 35 (.tmp 3), _, _, _, _⟩ :: _) _ _); go_must (refine wpList_exec rfl (vR [px, py]) (exec_loadP (.tmp 3) rfl (w.heap.size) px py rfl Ngp_6.out) ?_)) | fail)
  refine (C3.out _).mono ?_
  rintro e7 x7 ⟨rfl, hb7⟩
  have Ngp_7 := Lib.hid (Ngp_6.out.keep hb7)
  have Ngq_7 := Lib.hid (Ngq_6.out.keep hb7)
  have Nga_7 := Lib.hid (Nga_6.out.keep hb7)
  have HF_7 : Hid (Below w.heap.size w x7) := Lib.hid (HF_6.out.trans (hb7.mono HF_6.out.size))
  clear hb7 Ngp_6 Ngq_6 Nga_6 HF_6
  go_wp2_with (first | ((with_reducible show wpList _ _ _ (⟨some 7, .alloc 35, _, _, _, _⟩ :: _) _ _); go_must (refine wpList_alloc_row rfl 35 rfl (.agg (zbs 64)) zero35 ?_; intro u8 ha8 hza8 hga8; have HA8 := Lib.hid ha8; have HZA8 := Lib.hid hza8; have HGA8 := Lib.hid hga8; clear ha8 hza8 hga8)) | ((with_reducible show wpList _ _ _ (⟨none, .store 35 (.tmp 7) (.tmp 24), _, _, _, _⟩ :: _) _ _); go_must (refine wpList_storeP rfl (.tmp 7) (.tmp 24) rfl (x7.heap.size) [0, 0] tx ty rfl rfl (zrow (k := 2) HA8.out) rfl ?_; intro y8 hr8 hg8 hz8; have Ngp_8 := Lib.hid ((Ngp_7.out.grown HGA8.out (by simp)).grown hg8 (by have := Ngp_7.out.lt; simp; omega)); have Ngq_8 := Lib.hid ((Ngq_7.out.grown HGA8.out (by simp)).grown hg8 (by have := Ngq_7.out.lt; simp; omega)); have Nga_8 := Lib.hid ((Nga_7.out.grown HGA8.out (by simp)).grown hg8 (by have := Nga_7.out.lt; simp; omega)); have Ngt_8 : Hid (RAt y8 x7.heap.size [tx, ty]) := Lib.hid hr8; have HF_8 : Hid (Below w.heap.size w y8) := Lib.hid ((HF_7.out.grown HGA8.out HF_7.out.size (by simp)).grown hg8 (by have := HF_7.out.size; have := HZA8.out; omega) (fun r hr => by injection hr with hr; have := HF_7.out.size; omega)); have HNE8_3 : Hid (w.heap.size ≠ x7.heap.size) := Lib.hid (by have := Ngp_7.out.lt; omega); have HNE8_4 : Hid (gq ≠ x7.heap.size) := Lib.hid (by have := Ngq_7.out.lt; omega); have HNE8_5 : Hid (ga ≠ x7.heap.size) := Lib.hid (by have := Nga_7.out.lt; omega); have HGE8 : Hid (w.heap.size ≤ x7.heap.size) := Lib.hid HF_7.out.size; clear hr8 hg8 hz8 HA8 HZA8 HGA8 Ngp_7 Ngq_7 Nga_7 HF_7)) | ((with_reducible show wpList _ _ _ (⟨_, .load 35 (.tmp 7), _, _, _, _⟩ :: _) _ _); go_must (refine wpList_exec rfl (vR [tx, ty]) (exec_loadP (.tmp 7) rfl (x7.heap.size) tx ty rfl Ngt_8.out) ?_)) | fail)
  generalize x7.heap.size = gt at *
  refine (C4.out _).mono ?_
  rintro e9 x9 ⟨rfl, hb9⟩
  have Ngp_9 := Lib.hid (Ngp_8.out.keep hb9)
  have Ngq_9 := Lib.hid (Ngq_8.out.keep hb9)
  have Nga_9 := Lib.hid (Nga_8.out.keep hb9)
  have Ngt_9 := Lib.hid (Ngt_8.out.keep hb9)
  have HF_9 : Hid (Below w.heap.size w x9) := Lib.hid (HF_8.out.trans (hb9.mono HF_8.out.size))
  clear hb9 Ngp_8 Ngq_8 Nga_8 Ngt_8 HF_8
  go_wp2_with (first | ((with_reducible show wpList _ _ _ (⟨some 8, .alloc 35, _, _, _, _⟩ :: _) _ _); go_must (refine wpList_alloc_row rfl 35 rfl (.agg (zbs 64)) zero35 ?_; intro u10 ha10 hza10 hga10; have HA10 := Lib.hid ha10; have HZA10 := Lib.hid hza10; have HGA10 := Lib.hid hga10; clear ha10 hza10 hga10)) | ((with_reducible show wpList _ _ _ (⟨none, .store 35 (.tmp 8) (.tmp 27), _, _, _, _⟩ :: _) _ _); go_must (refine wpList_storeP rfl (.tmp 8) (.tmp 27) rfl (x9.heap.size) [0, 0] fx fy rfl rfl (zrow (k := 2) HA10.out) rfl ?_; intro y10 hr10 hg10 hz10; have Ngp_10 := Lib.hid ((Ngp_9.out.grown HGA10.out (by simp)).grown hg10 (by have := Ngp_9.out.lt; simp; omega)); have Ngq_10 := Lib.hid ((Ngq_9.out.grown HGA10.out (by simp)).grown hg10 (by have := Ngq_9.out.lt; simp; omega)); have Nga_10 := Lib.hid ((Nga_9.out.grown HGA10.out (by simp)).grown hg10 (by have := Nga_9.out.lt; simp; omega)); have Ngt_10 := Lib.hid ((Ngt_9.out.grown HGA10.out (by simp)).grown hg10 (by have := Ngt_9.out.lt; simp; omega)); have Ngf_10 : Hid (RAt y10 x9.heap.size [fx, fy]) := Lib.hid hr10; have HF_10 : Hid (Below w.heap.size w y10) := Lib.hid ((HF_9.out.grown HGA10.out HF_9.out.size (by simp)).grown hg10 (by have := HF_9.out.size; have := HZA10.out; omega) (fun r hr => by injection hr with hr; have := HF_9.out.size; omega)); have HNE10_6 : Hid (w.heap.size ≠ x9.heap.size) := Lib.hid (by have := Ngp_9.out.lt; omega); have HNE10_7 : Hid (gq ≠ x9.heap.size) := Lib.hid (by have := Ngq_9.out.lt; omega); have HNE10_8 : Hid (ga ≠ x9.heap.size) := Lib.hid (by have := Nga_9.out.lt; omega); have HNE10_9 : Hid (gt ≠ x9.heap.size) := Lib.hid (by have := Ngt_9.out.lt; omega); have HGE10 : Hid (w.heap.size ≤ x9.heap.size) := Lib.hid HF_9.out.size; clear hr10 hg10 hz10 HA10 HZA10 HGA10 Ngp_9 Ngq_9 Nga_9 Ngt_9 HF_9)) | fail)
  generalize x9.heap.size = gf at *
  refine region_wq2 (by kernel_rfl) (by kernel_rfl) (by kernel_rfl) ?_
  refine wq_loadP rfl (.tmp 3) rfl (w.heap.size) px py rfl Ngp_10.out ?_
  simp only [Act.put, List.setIfInBounds_toArray, List.set_cons_zero, List.set_cons_succ]
  refine wq_call rfl 43 [.tmp 28] #[35] rfl [vR [px, py]] rfl (CG43 _) (.bool true) C5.out ?_
  simp only [Act.put, List.setIfInBounds_toArray, List.set_cons_zero, List.set_cons_succ]
  refine wq_loadP rfl (.tmp 8) rfl (gf) fx fy rfl Ngf_10.out ?_
  simp only [Act.put, List.setIfInBounds_toArray, List.set_cons_zero, List.set_cons_succ]
  refine wq_loadP rfl (.tmp 8) rfl (gf) fx fy rfl Ngf_10.out ?_
  simp only [Act.put, List.setIfInBounds_toArray, List.set_cons_zero, List.set_cons_succ]
  refine wq_call rfl 44 [.tmp 30, .tmp 31] #[35, 35] rfl [vR [fx, fy], vR [fx, fy]] rfl (CG44 _) (vR [ex, ey]) C6.out ?_
  simp only [Act.put, List.setIfInBounds_toArray, List.set_cons_zero, List.set_cons_succ]
  refine wq_call rfl 39 [] #[] rfl [] rfl (CG39 _) (vR [0, 1]) C7.out ?_
  simp only [Act.put, List.setIfInBounds_toArray, List.set_cons_zero, List.set_cons_succ]
  refine wq_eqP rfl (.tmp 32) (.tmp 33) rfl ex ey 0 1 rfl rfl true HE.out ?_
  simp only [Act.put, List.setIfInBounds_toArray, List.set_cons_zero, List.set_cons_succ]
  refine wq_bin (P := Try.prog) rfl .neq 4 4 (.tmp 29) (.tmp 34) rfl (.bool true) (.bool true) (.bool false) rfl rfl (fun _ => rfl) (run_neqB true) ?_
  simp only [Act.put, List.setIfInBounds_toArray, List.set_cons_zero, List.set_cons_succ]
  refine wq_move rfl (.tmp 35) rfl (.bool false) rfl ?_
  simp only [Act.put, List.setIfInBounds_toArray, List.set_cons_zero, List.set_cons_succ]
  refine wq_loadP rfl (.tmp 3) rfl (w.heap.size) px py rfl Ngp_10.out ?_
  simp only [Act.put, List.setIfInBounds_toArray, List.set_cons_zero, List.set_cons_succ]
  refine wq_call rfl 43 [.tmp 37] #[35] rfl [vR [px, py]] rfl (CG43 _) (.bool true) C5.out ?_
  simp only [Act.put, List.setIfInBounds_toArray, List.set_cons_zero, List.set_cons_succ]
  refine wq_move rfl (.tmp 38) rfl (.bool true) rfl ?_
  simp only [Act.put, List.setIfInBounds_toArray, List.set_cons_zero, List.set_cons_succ]
  refine wq_loadP rfl (.tmp 4) rfl (gq) qx qy rfl Ngq_10.out ?_
  simp only [Act.put, List.setIfInBounds_toArray, List.set_cons_zero, List.set_cons_succ]
  refine wq_call rfl 43 [.tmp 40] #[35] rfl [vR [qx, qy]] rfl (CG43 _) (.bool sq) C8.out ?_
  simp only [Act.put, List.setIfInBounds_toArray, List.set_cons_zero, List.set_cons_succ]
  refine wq_loadP rfl (.tmp 3) rfl (w.heap.size) px py rfl Ngp_10.out ?_
  simp only [Act.put, List.setIfInBounds_toArray, List.set_cons_zero, List.set_cons_succ]
  as_aux_lemma =>
    refine wq_loadP rfl (.tmp 4) rfl (gq) qx qy rfl Ngq_10.out ?_
    simp only [Act.put, List.setIfInBounds_toArray, List.set_cons_zero, List.set_cons_succ]
    refine wq_call rfl 44 [.tmp 42, .tmp 43] #[35, 35] rfl [vR [px, py], vR [qx, qy]] rfl (CG44 _) (vR [sx, sy]) C9.out ?_
    simp only [Act.put, List.setIfInBounds_toArray, List.set_cons_zero, List.set_cons_succ]
    refine wq_call rfl 43 [.tmp 44] #[35] rfl [vR [sx, sy]] rfl (CG43 _) (.bool sq) C10.out ?_
    simp only [Act.put, List.setIfInBounds_toArray, List.set_cons_zero, List.set_cons_succ]
    refine wq_bin (P := Try.prog) rfl .neq 4 4 (.tmp 41) (.tmp 45) rfl (.bool sq) (.bool sq) (.bool false) rfl rfl (fun _ => rfl) (run_neqB sq) ?_
    simp only [Act.put, List.setIfInBounds_toArray, List.set_cons_zero, List.set_cons_succ]
    refine wq_pick rfl (.tmp 39) (.tmp 46) (.const (.bool false)) rfl true rfl (.bool false) rfl ?_
    simp only [Act.put, List.setIfInBounds_toArray, List.set_cons_zero, List.set_cons_succ]
    refine wq_pick rfl (.tmp 36) (.const (.bool true)) (.tmp 47) rfl false rfl (.bool false) rfl ?_
    simp only [Act.put, List.setIfInBounds_toArray, List.set_cons_zero, List.set_cons_succ]
    refine wq_move rfl (.tmp 48) rfl (.bool false) rfl ?_
    simp only [Act.put, List.setIfInBounds_toArray, List.set_cons_zero, List.set_cons_succ]
    refine wq_loadP rfl (.tmp 3) rfl (w.heap.size) px py rfl Ngp_10.out ?_
    simp only [Act.put, List.setIfInBounds_toArray, List.set_cons_zero, List.set_cons_succ]
    refine wq_call rfl 51 [.tmp 50] #[35] rfl [vR [px, py]] rfl (CG51 _) (vR [nx, ny]) C11.out ?_
    simp only [Act.put, List.setIfInBounds_toArray, List.set_cons_zero, List.set_cons_succ]
    refine wq_call rfl 43 [.tmp 51] #[35] rfl [vR [nx, ny]] rfl (CG43 _) (.bool true) C12.out ?_
    simp only [Act.put, List.setIfInBounds_toArray, List.set_cons_zero, List.set_cons_succ]
    refine wq_loadP rfl (.tmp 3) rfl (w.heap.size) px py rfl Ngp_10.out ?_
    simp only [Act.put, List.setIfInBounds_toArray, List.set_cons_zero, List.set_cons_succ]
    refine wq_call rfl 43 [.tmp 53] #[35] rfl [vR [px, py]] rfl (CG43 _) (.bool true) C5.out ?_
    simp only [Act.put, List.setIfInBounds_toArray, List.set_cons_zero, List.set_cons_succ]
    refine wq_bin (P := Try.prog) rfl .neq 4 4 (.tmp 52) (.tmp 54) rfl (.bool true) (.bool true) (.bool false) rfl rfl (fun _ => rfl) (run_neqB true) ?_
    simp only [Act.put, List.setIfInBounds_toArray, List.set_cons_zero, List.set_cons_succ]
    refine wq_pick rfl (.tmp 49) (.const (.bool true)) (.tmp 55) rfl false rfl (.bool false) rfl ?_
    simp only [Act.put, List.setIfInBounds_toArray, List.set_cons_zero, List.set_cons_succ]
    refine wq_nil ?_
    intro W11 hb11
    have Ngp_11 := Lib.hid (Ngp_10.out.keep hb11)
    have Ngq_11 := Lib.hid (Ngq_10.out.keep hb11)
    have Nga_11 := Lib.hid (Nga_10.out.keep hb11)
    have Ngt_11 := Lib.hid (Ngt_10.out.keep hb11)
    have Ngf_11 := Lib.hid (Ngf_10.out.keep hb11)
    have HF_11 : Hid (Below w.heap.size w W11) := Lib.hid (HF_10.out.trans (hb11.mono HF_10.out.size))
    clear hb11 Ngp_10 Ngq_10 Nga_10 Ngt_10 Ngf_10 HF_10
    go_wp2_with fail
    have HLT12_0 : Hid (w.heap.size < W11.heap.size) := Lib.hid Ngp_11.out.lt
    have HLT12_1 : Hid (gq < W11.heap.size) := Lib.hid Ngq_11.out.lt
    have HLT12_2 : Hid (ga < W11.heap.size) := Lib.hid Nga_11.out.lt
    have HLT12_3 : Hid (gt < W11.heap.size) := Lib.hid Ngt_11.out.lt
    have HLT12_4 : Hid (gf < W11.heap.size) := Lib.hid Ngf_11.out.lt
    have HLO12 : Hid (w.heap.size ≤ W11.heap.size) := Lib.hid HF_11.out.size
    refine region_split (fun a' W => ∃ a12_0, RAt W w.heap.size [px, py] ∧ RAt W gq [qx, qy] ∧ RAt W ga [a] ∧ RAt W gt [tx, ty] ∧ RAt W gf [fx, fy] ∧ RAt W a12_0 [bx, by_] ∧ W11.heap.size ≤ a12_0 ∧ Below w.heap.size w W ∧ a' = ⟨#[vR [px, py], vR [qx, qy], vN a, .pointer (some ⟨w.heap.size, 0, none⟩), .pointer (some ⟨gq, 0, none⟩), .pointer (some ⟨ga, 0, none⟩), .bool false, .pointer (some ⟨gt, 0, none⟩), .pointer (some ⟨gf, 0, none⟩), .pointer (some ⟨a12_0, 0, none⟩), undef, undef, .bool true, .bool false, vR [px, py], .int .i64 0, .bool false, .bool false, vR [qx, qy], .int .i64 0, .bool false, .bool false, vR [px, py], vR [px, py], vR [tx, ty], vR [tx, ty], vR [tx, ty], vR [fx, fy], vR [px, py], .bool true, vR [fx, fy], vR [fx, fy], vR [ex, ey], vR [0, 1], .bool true, .bool false, .bool false, vR [px, py], .bool true, .bool true, vR [qx, qy], .bool sq, vR [px, py], vR [qx, qy], vR [sx, sy], .bool sq, .bool false, .bool false, .bool false, .bool false, vR [px, py], vR [nx, ny], .bool true, vR [px, py], .bool true, .bool false, .bool false, vN a, vR [gx, gy], vR [bx, by_], undef, undef, undef, undef, undef, undef, undef, undef, undef, undef, undef, undef, undef, undef, undef, undef, undef, undef, undef, undef, undef, undef, undef, undef], []⟩) ?_ ?_
    · refine startW (fun j => j == 4) (W11.heap.size) (by kernel_rfl) ?_
      obtain ⟨D12, hD12⟩ : ∃ D, D = W11.drew := ⟨_, rfl⟩
      rw [← hD12]
      have HL_12 : Hid (W11.heap.size ≤ D12.heap.size) := Lib.hid (by rw [hD12]; exact Nat.le_refl _)
      have Ngp_12 : Hid (RAt D12 w.heap.size [px, py]) := Lib.hid (by rw [hD12]; exact Ngp_11.out)
      have Ngq_12 : Hid (RAt D12 gq [qx, qy]) := Lib.hid (by rw [hD12]; exact Ngq_11.out)
      have Nga_12 : Hid (RAt D12 ga [a]) := Lib.hid (by rw [hD12]; exact Nga_11.out)
      have Ngt_12 : Hid (RAt D12 gt [tx, ty]) := Lib.hid (by rw [hD12]; exact Ngt_11.out)
      have Ngf_12 : Hid (RAt D12 gf [fx, fy]) := Lib.hid (by rw [hD12]; exact Ngf_11.out)
      have HF_12 : Hid (Below w.heap.size w D12) := Lib.hid (by rw [hD12]; exact below_drewN' HF_11.out 1)
      clear hD12 Ngp_11 Ngq_11 Nga_11 Ngt_11 Ngf_11 HF_11
      refine takeT (i := 0) (oi := { dst := some 57, op := Op.load 23 (Operand.tmp 5), type := 23, pos := "law.go:126", after := #[], guard := none }) (vN a) rfl (by kernel_rfl) (by kernel_rfl) (by kernel_rfl) (by kernel_rfl) (by kernel_rfl) (fun _ _ _ h => nomatch h.1) (by rfl) (fun w' hk => exec_loadF (.tmp 5) rfl (ga) 0 0 rfl [a] a rfl (Nga_12.out.below hk HLT12_2.out) rfl) ?_
      simp only [Act.put, List.setIfInBounds_toArray, List.set_cons_zero, List.set_cons_succ]
      refine eachW [1, 3] (by kernel_rfl) (by simp) ?_
      intro k hk
      simp only [List.mem_cons, List.not_mem_nil, or_false] at hk
      rcases hk with rfl | rfl
      · refine wpOp_call (i := 1) (oi := { dst := some 58, op := Op.call { callee := Callee.value (Operand.func 42), args := #[], argTypes := #[] }, type := 35, pos := "law.go:126", after := #[], guard := none }) rfl (by rfl) (exec_callL 42 [] #[] rfl [] rfl (CG42 _)) ((C13.out D12).mono ?_)
        rintro e13 W13 ⟨rfl, hb13⟩
        refine ⟨_, rfl, fun _ => hb13.mono HL_12.out, ?_⟩
        have Ngp_13 := Lib.hid (Ngp_12.out.keep hb13)
        have Ngq_13 := Lib.hid (Ngq_12.out.keep hb13)
        have Nga_13 := Lib.hid (Nga_12.out.keep hb13)
        have Ngt_13 := Lib.hid (Ngt_12.out.keep hb13)
        have Ngf_13 := Lib.hid (Ngf_12.out.keep hb13)
        have HF_13 : Hid (Below w.heap.size w W13) := Lib.hid (HF_12.out.trans (hb13.mono HF_12.out.size))
        have HL_13 : Hid (W11.heap.size ≤ W13.heap.size) := Lib.hid (Nat.le_trans HL_12.out hb13.size)
        clear hb13 HL_12 Ngp_12 Ngq_12 Nga_12 Ngt_12 Ngf_12 HF_12
        simp only [Act.put, List.setIfInBounds_toArray, List.set_cons_zero, List.set_cons_succ]
        refine eachW [2, 3] (by kernel_rfl) (by simp) ?_
        intro k hk
        simp only [List.mem_cons, List.not_mem_nil, or_false] at hk
        rcases hk with rfl | rfl
        · refine wpOp_call (i := 2) (oi := { dst := some 59, op := Op.call { callee := Callee.value (Operand.func 41), args := #[Operand.tmp 57, Operand.tmp 58], argTypes := #[23, 35] }, type := 35, pos := "law.go:126", after := #[{ on := 0, ground := Ground.data }, { on := 1, ground := Ground.data }, { on := 1, ground := Ground.chain }], guard := none }) rfl (by rfl) (exec_callL 41 [.tmp 57, .tmp 58] #[23, 35] rfl [vN a, vR [gx, gy]] rfl (CG41 _)) ((C14.out W13).mono ?_)
          rintro e14 W14 ⟨rfl, hb14⟩
          refine ⟨_, rfl, fun _ => hb14.mono HL_13.out, ?_⟩
          have Ngp_14 := Lib.hid (Ngp_13.out.keep hb14)
          have Ngq_14 := Lib.hid (Ngq_13.out.keep hb14)
          have Nga_14 := Lib.hid (Nga_13.out.keep hb14)
          have Ngt_14 := Lib.hid (Ngt_13.out.keep hb14)
          have Ngf_14 := Lib.hid (Ngf_13.out.keep hb14)
          have HF_14 : Hid (Below w.heap.size w W14) := Lib.hid (HF_13.out.trans (hb14.mono HF_13.out.size))
          have HL_14 : Hid (W11.heap.size ≤ W14.heap.size) := Lib.hid (Nat.le_trans HL_13.out hb14.size)
          clear hb14 HL_13 Ngp_13 Ngq_13 Nga_13 Ngt_13 Ngf_13 HF_13
          simp only [Act.put, List.setIfInBounds_toArray, List.set_cons_zero, List.set_cons_succ]
          refine opW _ _ (i := 3) (oi := { dst := some 9, op := Op.alloc 35, type := 0, pos := "law.go:126", after := #[], guard := none }) rfl (by kernel_rfl) (by rfl) (exec_alloc 35 rfl (.agg (zbs 64)) zero35 W14) (fun _ => (below_alloc W14 _).mono HL_14.out) ?_
          obtain ⟨W15, hW15, hb15, hz15⟩ := alloc_zeroP W14
          rw [← hW15]
          obtain ⟨g15, hg15⟩ : ∃ g, g = W14.heap.size := ⟨_, rfl⟩
          rw [← hg15] at hz15 ⊢
          have HG15 : Hid (W11.heap.size ≤ g15) := Lib.hid (by rw [hg15]; exact HL_14.out)
          have HX15_10 : Hid (w.heap.size ≠ g15) := Lib.hid (by have := Ngp_14.out.lt; omega)
          have HX15_11 : Hid (gq ≠ g15) := Lib.hid (by have := Ngq_14.out.lt; omega)
          have HX15_12 : Hid (ga ≠ g15) := Lib.hid (by have := Nga_14.out.lt; omega)
          have HX15_13 : Hid (gt ≠ g15) := Lib.hid (by have := Ngt_14.out.lt; omega)
          have HX15_14 : Hid (gf ≠ g15) := Lib.hid (by have := Ngf_14.out.lt; omega)
          have Ngp_15 := Lib.hid (Ngp_14.out.keep hb15)
          have Ngq_15 := Lib.hid (Ngq_14.out.keep hb15)
          have Nga_15 := Lib.hid (Nga_14.out.keep hb15)
          have Ngt_15 := Lib.hid (Ngt_14.out.keep hb15)
          have Ngf_15 := Lib.hid (Ngf_14.out.keep hb15)
          have HF_15 : Hid (Below w.heap.size w W15) := Lib.hid (HF_14.out.trans (hb15.mono HF_14.out.size))
          have HL_15 : Hid (W11.heap.size ≤ W15.heap.size) := Lib.hid (Nat.le_trans HL_14.out hb15.size)
          have RZ15_15 : Hid (RAt W15 g15 [0, 0]) := Lib.hid (zrow (k := 2) hz15)
          clear hb15 hz15 hg15 hW15 HL_14 Ngp_14 Ngq_14 Nga_14 Ngt_14 Ngf_14 HF_14
          simp only [Act.put, List.setIfInBounds_toArray, List.set_cons_zero, List.set_cons_succ]
          refine storeW_P (i := 4) (oi := { dst := none, op := Op.store 35 (Operand.tmp 9) (Operand.tmp 59), type := 0, pos := "law.go:126", after := #[{ on := 3, ground := Ground.data }, { on := 2, ground := Ground.data }, { on := 2, ground := Ground.chain }, { on := 0, ground := Ground.phase }, { on := 1, ground := Ground.phase }, { on := 2, ground := Ground.phase }, { on := 3, ground := Ground.phase }], guard := none }) rfl (by kernel_rfl) (by rfl) (.tmp 9) (.tmp 59) rfl (g15) [0, 0] bx by_ rfl rfl RZ15_15.out rfl rfl ?_
          intro W16 hr16 hg16 hz16
          simp only [Act.put, List.setIfInBounds_toArray, List.set_cons_zero, List.set_cons_succ]
          have Ngp_16 := Lib.hid (Ngp_15.out.grown hg16 (by have := HX15_10.out; simp; omega))
          have Ngq_16 := Lib.hid (Ngq_15.out.grown hg16 (by have := HX15_11.out; simp; omega))
          have Nga_16 := Lib.hid (Nga_15.out.grown hg16 (by have := HX15_12.out; simp; omega))
          have Ngt_16 := Lib.hid (Ngt_15.out.grown hg16 (by have := HX15_13.out; simp; omega))
          have Ngf_16 := Lib.hid (Ngf_15.out.grown hg16 (by have := HX15_14.out; simp; omega))
          have RZ15_16 : Hid (RAt W16 g15 [bx, by_]) := Lib.hid hr16
          have HF_16 : Hid (Below w.heap.size w W16) := Lib.hid (HF_15.out.grown hg16 HF_15.out.size (fun r hr => by injection hr with hr; have := (show w.heap.size ≤ g15 from (by have := HG15.out; have := HLO12.out; omega)); omega))
          have HL_16 : Hid (W11.heap.size ≤ W16.heap.size) := Lib.hid (Nat.le_trans HL_15.out hg16.size)
          clear hr16 hg16 hz16 HL_15 Ngp_15 Ngq_15 Nga_15 Ngt_15 Ngf_15 RZ15_15 HF_15
          refine doneW (by kernel_rfl) ⟨rfl, ?_⟩ _
          exact ⟨g15, Ngp_16.out, Ngq_16.out, Nga_16.out, Ngt_16.out, Ngf_16.out, RZ15_16.out, HG15.out, HF_16.out, rfl⟩
        · refine wpOp_value (i := 3) (oi := { dst := some 9, op := Op.alloc 35, type := 0, pos := "law.go:126", after := #[], guard := none }) rfl (by rfl) (exec_alloc 35 rfl (.agg (zbs 64)) zero35 W13) ⟨fun _ => (below_alloc W13 _).mono HL_13.out, ?_⟩
          obtain ⟨W17, hW17, hb17, hz17⟩ := alloc_zeroP W13
          rw [← hW17]
          obtain ⟨g17, hg17⟩ : ∃ g, g = W13.heap.size := ⟨_, rfl⟩
          rw [← hg17] at hz17 ⊢
          have HG17 : Hid (W11.heap.size ≤ g17) := Lib.hid (by rw [hg17]; exact HL_13.out)
          have HX17_10 : Hid (w.heap.size ≠ g17) := Lib.hid (by have := Ngp_13.out.lt; omega)
          have HX17_11 : Hid (gq ≠ g17) := Lib.hid (by have := Ngq_13.out.lt; omega)
          have HX17_12 : Hid (ga ≠ g17) := Lib.hid (by have := Nga_13.out.lt; omega)
          have HX17_13 : Hid (gt ≠ g17) := Lib.hid (by have := Ngt_13.out.lt; omega)
          have HX17_14 : Hid (gf ≠ g17) := Lib.hid (by have := Ngf_13.out.lt; omega)
          have Ngp_17 := Lib.hid (Ngp_13.out.keep hb17)
          have Ngq_17 := Lib.hid (Ngq_13.out.keep hb17)
          have Nga_17 := Lib.hid (Nga_13.out.keep hb17)
          have Ngt_17 := Lib.hid (Ngt_13.out.keep hb17)
          have Ngf_17 := Lib.hid (Ngf_13.out.keep hb17)
          have HF_17 : Hid (Below w.heap.size w W17) := Lib.hid (HF_13.out.trans (hb17.mono HF_13.out.size))
          have HL_17 : Hid (W11.heap.size ≤ W17.heap.size) := Lib.hid (Nat.le_trans HL_13.out hb17.size)
          have RZ17_17 : Hid (RAt W17 g17 [0, 0]) := Lib.hid (zrow (k := 2) hz17)
          clear hb17 hz17 hg17 hW17 HL_13 Ngp_13 Ngq_13 Nga_13 Ngt_13 Ngf_13 HF_13
          simp only [Act.put, List.setIfInBounds_toArray, List.set_cons_zero, List.set_cons_succ]
          refine callW (i := 2) (oi := { dst := some 59, op := Op.call { callee := Callee.value (Operand.func 41), args := #[Operand.tmp 57, Operand.tmp 58], argTypes := #[23, 35] }, type := 35, pos := "law.go:126", after := #[{ on := 0, ground := Ground.data }, { on := 1, ground := Ground.data }, { on := 1, ground := Ground.chain }], guard := none }) rfl (by kernel_rfl) (by rfl) (exec_callL 41 [.tmp 57, .tmp 58] #[23, 35] rfl [vN a, vR [gx, gy]] rfl (CG41 _)) ((C14.out W17).mono ?_)
          rintro e18 W18 ⟨rfl, hb18⟩
          refine ⟨_, rfl, fun _ => hb18.mono HL_17.out, ?_⟩
          have Ngp_18 := Lib.hid (Ngp_17.out.keep hb18)
          have Ngq_18 := Lib.hid (Ngq_17.out.keep hb18)
          have Nga_18 := Lib.hid (Nga_17.out.keep hb18)
          have Ngt_18 := Lib.hid (Ngt_17.out.keep hb18)
          have Ngf_18 := Lib.hid (Ngf_17.out.keep hb18)
          have RZ17_18 := Lib.hid (RZ17_17.out.keep hb18)
          have HF_18 : Hid (Below w.heap.size w W18) := Lib.hid (HF_17.out.trans (hb18.mono HF_17.out.size))
          have HL_18 : Hid (W11.heap.size ≤ W18.heap.size) := Lib.hid (Nat.le_trans HL_17.out hb18.size)
          clear hb18 HL_17 Ngp_17 Ngq_17 Nga_17 Ngt_17 Ngf_17 RZ17_17 HF_17
          simp only [Act.put, List.setIfInBounds_toArray, List.set_cons_zero, List.set_cons_succ]
          refine storeW_P (i := 4) (oi := { dst := none, op := Op.store 35 (Operand.tmp 9) (Operand.tmp 59), type := 0, pos := "law.go:126", after := #[{ on := 3, ground := Ground.data }, { on := 2, ground := Ground.data }, { on := 2, ground := Ground.chain }, { on := 0, ground := Ground.phase }, { on := 1, ground := Ground.phase }, { on := 2, ground := Ground.phase }, { on := 3, ground := Ground.phase }], guard := none }) rfl (by kernel_rfl) (by rfl) (.tmp 9) (.tmp 59) rfl (g17) [0, 0] bx by_ rfl rfl RZ17_18.out rfl rfl ?_
          intro W19 hr19 hg19 hz19
          simp only [Act.put, List.setIfInBounds_toArray, List.set_cons_zero, List.set_cons_succ]
          have Ngp_19 := Lib.hid (Ngp_18.out.grown hg19 (by have := HX17_10.out; simp; omega))
          have Ngq_19 := Lib.hid (Ngq_18.out.grown hg19 (by have := HX17_11.out; simp; omega))
          have Nga_19 := Lib.hid (Nga_18.out.grown hg19 (by have := HX17_12.out; simp; omega))
          have Ngt_19 := Lib.hid (Ngt_18.out.grown hg19 (by have := HX17_13.out; simp; omega))
          have Ngf_19 := Lib.hid (Ngf_18.out.grown hg19 (by have := HX17_14.out; simp; omega))
          have RZ17_19 : Hid (RAt W19 g17 [bx, by_]) := Lib.hid hr19
          have HF_19 : Hid (Below w.heap.size w W19) := Lib.hid (HF_18.out.grown hg19 HF_18.out.size (fun r hr => by injection hr with hr; have := (show w.heap.size ≤ g17 from (by have := HG17.out; have := HLO12.out; omega)); omega))
          have HL_19 : Hid (W11.heap.size ≤ W19.heap.size) := Lib.hid (Nat.le_trans HL_18.out hg19.size)
          clear hr19 hg19 hz19 HL_18 Ngp_18 Ngq_18 Nga_18 Ngt_18 Ngf_18 RZ17_18 HF_18
          refine doneW (by kernel_rfl) ⟨rfl, ?_⟩ _
          exact ⟨g17, Ngp_19.out, Ngq_19.out, Nga_19.out, Ngt_19.out, Ngf_19.out, RZ17_19.out, HG17.out, HF_19.out, rfl⟩
      · refine wpOp_value (i := 3) (oi := { dst := some 9, op := Op.alloc 35, type := 0, pos := "law.go:126", after := #[], guard := none }) rfl (by rfl) (exec_alloc 35 rfl (.agg (zbs 64)) zero35 D12) ⟨fun _ => (below_alloc D12 _).mono HL_12.out, ?_⟩
        obtain ⟨W20, hW20, hb20, hz20⟩ := alloc_zeroP D12
        rw [← hW20]
        obtain ⟨g20, hg20⟩ : ∃ g, g = D12.heap.size := ⟨_, rfl⟩
        rw [← hg20] at hz20 ⊢
        have HG20 : Hid (W11.heap.size ≤ g20) := Lib.hid (by rw [hg20]; exact HL_12.out)
        have HX20_10 : Hid (w.heap.size ≠ g20) := Lib.hid (by have := Ngp_12.out.lt; omega)
        have HX20_11 : Hid (gq ≠ g20) := Lib.hid (by have := Ngq_12.out.lt; omega)
        have HX20_12 : Hid (ga ≠ g20) := Lib.hid (by have := Nga_12.out.lt; omega)
        have HX20_13 : Hid (gt ≠ g20) := Lib.hid (by have := Ngt_12.out.lt; omega)
        have HX20_14 : Hid (gf ≠ g20) := Lib.hid (by have := Ngf_12.out.lt; omega)
        have Ngp_20 := Lib.hid (Ngp_12.out.keep hb20)
        have Ngq_20 := Lib.hid (Ngq_12.out.keep hb20)
        have Nga_20 := Lib.hid (Nga_12.out.keep hb20)
        have Ngt_20 := Lib.hid (Ngt_12.out.keep hb20)
        have Ngf_20 := Lib.hid (Ngf_12.out.keep hb20)
        have HF_20 : Hid (Below w.heap.size w W20) := Lib.hid (HF_12.out.trans (hb20.mono HF_12.out.size))
        have HL_20 : Hid (W11.heap.size ≤ W20.heap.size) := Lib.hid (Nat.le_trans HL_12.out hb20.size)
        have RZ20_20 : Hid (RAt W20 g20 [0, 0]) := Lib.hid (zrow (k := 2) hz20)
        clear hb20 hz20 hg20 hW20 HL_12 Ngp_12 Ngq_12 Nga_12 Ngt_12 Ngf_12 HF_12
        simp only [Act.put, List.setIfInBounds_toArray, List.set_cons_zero, List.set_cons_succ]
        refine callW (i := 1) (oi := { dst := some 58, op := Op.call { callee := Callee.value (Operand.func 42), args := #[], argTypes := #[] }, type := 35, pos := "law.go:126", after := #[], guard := none }) rfl (by kernel_rfl) (by rfl) (exec_callL 42 [] #[] rfl [] rfl (CG42 _)) ((C13.out W20).mono ?_)
        rintro e21 W21 ⟨rfl, hb21⟩
        refine ⟨_, rfl, fun _ => hb21.mono HL_20.out, ?_⟩
        have Ngp_21 := Lib.hid (Ngp_20.out.keep hb21)
        have Ngq_21 := Lib.hid (Ngq_20.out.keep hb21)
        have Nga_21 := Lib.hid (Nga_20.out.keep hb21)
        have Ngt_21 := Lib.hid (Ngt_20.out.keep hb21)
        have Ngf_21 := Lib.hid (Ngf_20.out.keep hb21)
        have RZ20_21 := Lib.hid (RZ20_20.out.keep hb21)
        have HF_21 : Hid (Below w.heap.size w W21) := Lib.hid (HF_20.out.trans (hb21.mono HF_20.out.size))
        have HL_21 : Hid (W11.heap.size ≤ W21.heap.size) := Lib.hid (Nat.le_trans HL_20.out hb21.size)
        clear hb21 HL_20 Ngp_20 Ngq_20 Nga_20 Ngt_20 Ngf_20 RZ20_20 HF_20
        simp only [Act.put, List.setIfInBounds_toArray, List.set_cons_zero, List.set_cons_succ]
        refine callW (i := 2) (oi := { dst := some 59, op := Op.call { callee := Callee.value (Operand.func 41), args := #[Operand.tmp 57, Operand.tmp 58], argTypes := #[23, 35] }, type := 35, pos := "law.go:126", after := #[{ on := 0, ground := Ground.data }, { on := 1, ground := Ground.data }, { on := 1, ground := Ground.chain }], guard := none }) rfl (by kernel_rfl) (by rfl) (exec_callL 41 [.tmp 57, .tmp 58] #[23, 35] rfl [vN a, vR [gx, gy]] rfl (CG41 _)) ((C14.out W21).mono ?_)
        rintro e22 W22 ⟨rfl, hb22⟩
        refine ⟨_, rfl, fun _ => hb22.mono HL_21.out, ?_⟩
        have Ngp_22 := Lib.hid (Ngp_21.out.keep hb22)
        have Ngq_22 := Lib.hid (Ngq_21.out.keep hb22)
        have Nga_22 := Lib.hid (Nga_21.out.keep hb22)
        have Ngt_22 := Lib.hid (Ngt_21.out.keep hb22)
        have Ngf_22 := Lib.hid (Ngf_21.out.keep hb22)
        have RZ20_22 := Lib.hid (RZ20_21.out.keep hb22)
        have HF_22 : Hid (Below w.heap.size w W22) := Lib.hid (HF_21.out.trans (hb22.mono HF_21.out.size))
        have HL_22 : Hid (W11.heap.size ≤ W22.heap.size) := Lib.hid (Nat.le_trans HL_21.out hb22.size)
        clear hb22 HL_21 Ngp_21 Ngq_21 Nga_21 Ngt_21 Ngf_21 RZ20_21 HF_21
        simp only [Act.put, List.setIfInBounds_toArray, List.set_cons_zero, List.set_cons_succ]
        refine storeW_P (i := 4) (oi := { dst := none, op := Op.store 35 (Operand.tmp 9) (Operand.tmp 59), type := 0, pos := "law.go:126", after := #[{ on := 3, ground := Ground.data }, { on := 2, ground := Ground.data }, { on := 2, ground := Ground.chain }, { on := 0, ground := Ground.phase }, { on := 1, ground := Ground.phase }, { on := 2, ground := Ground.phase }, { on := 3, ground := Ground.phase }], guard := none }) rfl (by kernel_rfl) (by rfl) (.tmp 9) (.tmp 59) rfl (g20) [0, 0] bx by_ rfl rfl RZ20_22.out rfl rfl ?_
        intro W23 hr23 hg23 hz23
        simp only [Act.put, List.setIfInBounds_toArray, List.set_cons_zero, List.set_cons_succ]
        have Ngp_23 := Lib.hid (Ngp_22.out.grown hg23 (by have := HX20_10.out; simp; omega))
        have Ngq_23 := Lib.hid (Ngq_22.out.grown hg23 (by have := HX20_11.out; simp; omega))
        have Nga_23 := Lib.hid (Nga_22.out.grown hg23 (by have := HX20_12.out; simp; omega))
        have Ngt_23 := Lib.hid (Ngt_22.out.grown hg23 (by have := HX20_13.out; simp; omega))
        have Ngf_23 := Lib.hid (Ngf_22.out.grown hg23 (by have := HX20_14.out; simp; omega))
        have RZ20_23 : Hid (RAt W23 g20 [bx, by_]) := Lib.hid hr23
        have HF_23 : Hid (Below w.heap.size w W23) := Lib.hid (HF_22.out.grown hg23 HF_22.out.size (fun r hr => by injection hr with hr; have := (show w.heap.size ≤ g20 from (by have := HG20.out; have := HLO12.out; omega)); omega))
        have HL_23 : Hid (W11.heap.size ≤ W23.heap.size) := Lib.hid (Nat.le_trans HL_22.out hg23.size)
        clear hr23 hg23 hz23 HL_22 Ngp_22 Ngq_22 Nga_22 Ngt_22 Ngf_22 RZ20_22 HF_22
        refine doneW (by kernel_rfl) ⟨rfl, ?_⟩ _
        exact ⟨g20, Ngp_23.out, Ngq_23.out, Nga_23.out, Ngt_23.out, Ngf_23.out, RZ20_23.out, HG20.out, HF_23.out, rfl⟩
    rintro a' v24 ⟨a12_0, h0, h1, h2, h3, h4, h5, k0, hF, rfl⟩
    have Ngp_24 := Lib.hid h0
    have Ngq_24 := Lib.hid h1
    have Nga_24 := Lib.hid h2
    have Ngt_24 := Lib.hid h3
    have Ngf_24 := Lib.hid h4
    have Na12_0_24 := Lib.hid h5
    have HNE24_10 : Hid (w.heap.size ≠ a12_0) := Lib.hid (by have := HLT12_0.out; omega)
    have HNE24_11 : Hid (gq ≠ a12_0) := Lib.hid (by have := HLT12_1.out; omega)
    have HNE24_12 : Hid (ga ≠ a12_0) := Lib.hid (by have := HLT12_2.out; omega)
    have HNE24_13 : Hid (gt ≠ a12_0) := Lib.hid (by have := HLT12_3.out; omega)
    have HNE24_14 : Hid (gf ≠ a12_0) := Lib.hid (by have := HLT12_4.out; omega)
    have HGE24_0 : Hid (w.heap.size ≤ a12_0) := Lib.hid (by have := HLO12.out; omega)
    have HF_24 := Lib.hid hF
    clear h0 h1 h2 h3 h4 h5 k0 hF HLT12_0 HLT12_1 HLT12_2 HLT12_3 HLT12_4 HLO12 Ngp_11 Ngq_11 Nga_11 Ngt_11 Ngf_11 HF_11
    go_wp2_with (first | ((with_reducible show wpList _ _ _ (⟨some 61, .slice 23 (.tmp 5) none none none, _, _, _, _⟩ :: _) _ _); go_must (refine wpList_exec rfl (.slice (some ⟨ga, 0, none⟩) 32 32) (exec_slice23 (.tmp 5) rfl _ rfl) ?_)) | fail)
    refine (CR.out _ _ Nga_24.out).mono ?_
    rintro e25 x25 ⟨rfl, hb25⟩
    have Ngp_25 := Lib.hid (Ngp_24.out.keep hb25)
    have Ngq_25 := Lib.hid (Ngq_24.out.keep hb25)
    have Nga_25 := Lib.hid (Nga_24.out.keep hb25)
    have Ngt_25 := Lib.hid (Ngt_24.out.keep hb25)
    have Ngf_25 := Lib.hid (Ngf_24.out.keep hb25)
    have Na12_0_25 := Lib.hid (Na12_0_24.out.keep hb25)
    have HF_25 : Hid (Below w.heap.size w x25) := Lib.hid (HF_24.out.trans (hb25.mono HF_24.out.size))
    clear hb25 Ngp_24 Ngq_24 Nga_24 Ngt_24 Ngf_24 Na12_0_24 HF_24
    go_wp2_with (first | ((with_reducible show wpList _ _ _ (⟨some 10, .alloc 23, _, _, _, _⟩ :: _) _ _); go_must (refine wpList_alloc_row rfl 23 rfl (.agg (zbs 32)) zero23 ?_; intro u26 ha26 hza26 hga26; have HA26 := Lib.hid ha26; have HZA26 := Lib.hid hza26; have HGA26 := Lib.hid hga26; clear ha26 hza26 hga26)) | ((with_reducible show wpList _ _ _ (⟨none, .store 23 (.tmp 10) (.tmp 63), _, _, _, _⟩ :: _) _ _); go_must (refine wpList_storeF rfl (.tmp 10) (.tmp 63) rfl (x25.heap.size) 0 0 rfl [0] r rfl rfl (zrow (k := 1) HA26.out) (show 0 < 1 by omega) ?_; intro y26 hr26 hg26 hz26; have Ngp_26 := Lib.hid ((Ngp_25.out.grown HGA26.out (by simp)).grown hg26 (by have := Ngp_25.out.lt; simp; omega)); have Ngq_26 := Lib.hid ((Ngq_25.out.grown HGA26.out (by simp)).grown hg26 (by have := Ngq_25.out.lt; simp; omega)); have Nga_26 := Lib.hid ((Nga_25.out.grown HGA26.out (by simp)).grown hg26 (by have := Nga_25.out.lt; simp; omega)); have Ngt_26 := Lib.hid ((Ngt_25.out.grown HGA26.out (by simp)).grown hg26 (by have := Ngt_25.out.lt; simp; omega)); have Ngf_26 := Lib.hid ((Ngf_25.out.grown HGA26.out (by simp)).grown hg26 (by have := Ngf_25.out.lt; simp; omega)); have Na12_0_26 := Lib.hid ((Na12_0_25.out.grown HGA26.out (by simp)).grown hg26 (by have := Na12_0_25.out.lt; simp; omega)); have Ngz_26 : Hid (RAt y26 x25.heap.size [r]) := Lib.hid hr26; have HF_26 : Hid (Below w.heap.size w y26) := Lib.hid ((HF_25.out.grown HGA26.out HF_25.out.size (by simp)).grown hg26 (by have := HF_25.out.size; have := HZA26.out; omega) (fun r hr => by injection hr with hr; have := HF_25.out.size; omega)); have HNE26_15 : Hid (w.heap.size ≠ x25.heap.size) := Lib.hid (by have := Ngp_25.out.lt; omega); have HNE26_16 : Hid (gq ≠ x25.heap.size) := Lib.hid (by have := Ngq_25.out.lt; omega); have HNE26_17 : Hid (ga ≠ x25.heap.size) := Lib.hid (by have := Nga_25.out.lt; omega); have HNE26_18 : Hid (gt ≠ x25.heap.size) := Lib.hid (by have := Ngt_25.out.lt; omega); have HNE26_19 : Hid (gf ≠ x25.heap.size) := Lib.hid (by have := Ngf_25.out.lt; omega); have HNE26_20 : Hid (a12_0 ≠ x25.heap.size) := Lib.hid (by have := Na12_0_25.out.lt; omega); have HGE26 : Hid (w.heap.size ≤ x25.heap.size) := Lib.hid HF_25.out.size; clear hr26 hg26 hz26 HA26 HZA26 HGA26 Ngp_25 Ngq_25 Nga_25 Ngt_25 Ngf_25 Na12_0_25 HF_25)) | fail)
    generalize x25.heap.size = gz at *
    refine region_wq2 (by kernel_rfl) (by kernel_rfl) (by kernel_rfl) ?_
    refine wq_move rfl (.tmp 11) rfl (.int .i64 0) rfl ?_
    simp only [Act.put, List.setIfInBounds_toArray, List.set_cons_zero, List.set_cons_succ]
    refine wq_bin (P := Try.prog) rfl .eql 36 36 (.tmp 65) (.const (.int .i64 0)) rfl (.int .i64 0) (.int .i64 0) (.bool true) rfl rfl (fun _ => rfl) (run_eq36 0 0 true rfl) ?_
    simp only [Act.put, List.setIfInBounds_toArray, List.set_cons_zero, List.set_cons_succ]
    refine wq_move rfl (.tmp 66) rfl (.bool true) rfl ?_
    simp only [Act.put, List.setIfInBounds_toArray, List.set_cons_zero, List.set_cons_succ]
    refine wq_loadP rfl (.tmp 9) rfl (a12_0) bx by_ rfl Na12_0_26.out ?_
    simp only [Act.put, List.setIfInBounds_toArray, List.set_cons_zero, List.set_cons_succ]
    refine wq_call rfl 43 [.tmp 68] #[35] rfl [vR [bx, by_]] rfl (CG43 _) (.bool c) C15.out ?_
    simp only [Act.put, List.setIfInBounds_toArray, List.set_cons_zero, List.set_cons_succ]
    refine wq_loadP rfl (.tmp 9) rfl (a12_0) bx by_ rfl Na12_0_26.out ?_
    simp only [Act.put, List.setIfInBounds_toArray, List.set_cons_zero, List.set_cons_succ]
    refine wq_call rfl 39 [] #[] rfl [] rfl (CG39 _) (vR [0, 1]) C7.out ?_
    simp only [Act.put, List.setIfInBounds_toArray, List.set_cons_zero, List.set_cons_succ]
    refine wq_eqP rfl (.tmp 70) (.tmp 71) rfl bx by_ 0 1 rfl rfl c HB.out ?_
    simp only [Act.put, List.setIfInBounds_toArray, List.set_cons_zero, List.set_cons_succ]
    refine wq_eqb (P := Try.prog) rfl (.tmp 69) (.tmp 72) rfl c c true rfl rfl (beq_self_eq_true _) ?_
    simp only [Act.put, List.setIfInBounds_toArray, List.set_cons_zero, List.set_cons_succ]
    refine wq_pick rfl (.tmp 67) (.tmp 73) (.const (.bool false)) rfl true rfl (.bool true) rfl ?_
    simp only [Act.put, List.setIfInBounds_toArray, List.set_cons_zero, List.set_cons_succ]
    refine wq_move rfl (.tmp 74) rfl (.bool true) rfl ?_
    simp only [Act.put, List.setIfInBounds_toArray, List.set_cons_zero, List.set_cons_succ]
    refine wq_loadP rfl (.tmp 9) rfl (a12_0) bx by_ rfl Na12_0_26.out ?_
    simp only [Act.put, List.setIfInBounds_toArray, List.set_cons_zero, List.set_cons_succ]
    refine wq_call rfl 39 [] #[] rfl [] rfl (CG39 _) (vR [0, 1]) C7.out ?_
    simp only [Act.put, List.setIfInBounds_toArray, List.set_cons_zero, List.set_cons_succ]
    refine wq_eqP rfl (.tmp 76) (.tmp 77) rfl bx by_ 0 1 rfl rfl c HB.out ?_
    simp only [Act.put, List.setIfInBounds_toArray, List.set_cons_zero, List.set_cons_succ]
    refine wq_loadF rfl (.tmp 10) rfl (gz) 0 0 rfl [r] r rfl Ngz_26.out rfl ?_
    simp only [Act.put, List.setIfInBounds_toArray, List.set_cons_zero, List.set_cons_succ]
    as_aux_lemma =>
      refine wq_zero rfl rfl ?_
      simp only [Act.put, List.setIfInBounds_toArray, List.set_cons_zero, List.set_cons_succ]
      refine wq_eq rfl (.tmp 79) (.tmp 80) rfl r 0 rfl rfl c HR.out ?_
      simp only [Act.put, List.setIfInBounds_toArray, List.set_cons_zero, List.set_cons_succ]
      refine wq_eqb (P := Try.prog) rfl (.tmp 78) (.tmp 81) rfl c c true rfl rfl (beq_self_eq_true _) ?_
      simp only [Act.put, List.setIfInBounds_toArray, List.set_cons_zero, List.set_cons_succ]
      refine wq_pick rfl (.tmp 75) (.tmp 82) (.const (.bool false)) rfl true rfl (.bool true) rfl ?_
      simp only [Act.put, List.setIfInBounds_toArray, List.set_cons_zero, List.set_cons_succ]
      refine wq_assign rfl (.tmp 83) rfl (.bool true) rfl ?_
      simp only [Act.put, List.setIfInBounds_toArray, List.set_cons_zero, List.set_cons_succ]
      refine wq_nil ?_
      intro W27 hb27
      have HBW : Hid (Below w.heap.size w W27) := Lib.hid (HF_26.out.trans (hb27.mono HF_26.out.size))
      go_wp2
      go_ret
      exact ⟨rfl, HBW.out⟩

set_option maxHeartbeats 8000000 in
set_option maxRecDepth 100000 in
theorem smalls_core_false (a r px py qx qy tx ty fx fy ex ey sx sy nx ny gx gy bx by_ : Nat) (sq c : Bool) (w : World)
    (C0 : Hid (∀ w, Calls Try.prog 38 #[] w (Gives (.bool true) w)))
    (C1 : Hid (∀ w, Calls Try.prog 40 #[vR [px, py]] w (Gives (.int .i64 0) w)))
    (C2 : Hid (∀ w, Calls Try.prog 40 #[vR [qx, qy]] w (Gives (.int .i64 0) w)))
    (C3 : Hid (∀ w, Calls Try.prog 44 #[vR [px, py], vR [px, py]] w (Gives (vR [tx, ty]) w)))
    (C4 : Hid (∀ w, Calls Try.prog 44 #[vR [tx, ty], vR [tx, ty]] w (Gives (vR [fx, fy]) w)))
    (C5 : Hid (∀ w, Calls Try.prog 43 #[vR [px, py]] w (Gives (.bool false) w)))
    (C6 : Hid (∀ w, Calls Try.prog 44 #[vR [fx, fy], vR [fx, fy]] w (Gives (vR [ex, ey]) w)))
    (C7 : Hid (∀ w, Calls Try.prog 39 #[] w (Gives (vR [0, 1]) w)))
    (C8 : Hid (∀ w, Calls Try.prog 51 #[vR [px, py]] w (Gives (vR [nx, ny]) w)))
    (C9 : Hid (∀ w, Calls Try.prog 43 #[vR [nx, ny]] w (Gives (.bool false) w)))
    (C10 : Hid (∀ w, Calls Try.prog 42 #[] w (Gives (vR [gx, gy]) w)))
    (C11 : Hid (∀ w, Calls Try.prog 41 #[vN a, vR [gx, gy]] w (Gives (vR [bx, by_]) w)))
    (C12 : Hid (∀ w, Calls Try.prog 43 #[vR [bx, by_]] w (Gives (.bool c) w)))
    (CR : Hid (∀ (w : World) (g : Nat), RAt w g [a] → Calls Try.prog 60 #[.slice (some ⟨g, 0, none⟩) 32 32] w (Gives (.tuple #[vN r, .int .i64 0]) w)))
    (HE : Hid (∀ w, (Op.equalIn 10000 35 (vR [ex, ey]) (vR [0, 1])).run Try.prog w = .ok false w)) (HB : Hid (∀ w, (Op.equalIn 10000 35 (vR [bx, by_]) (vR [0, 1])).run Try.prog w = .ok c w)) (HR : Hid (∀ w, (Op.equalIn 10000 23 (vN r) (vN 0)).run Try.prog w = .ok c w)) :
    Calls Try.prog 9 #[vR [px, py], vR [qx, qy], vN a] w (Gives (.bool true) w) := by
  have HF_0 : Hid (Below w.heap.size w w) := Lib.hid (Below.refl _ _)
  go_enter Try.func9, Try.ntmps9
  go_wp2_with (first | ((with_reducible show wpList _ _ _ (⟨some 3, .box 35 (.tmp 0), _, _, _, _⟩ :: _) _ _); go_must (refine wpList_box_row rfl 35 (.tmp 0) rfl (bcs (encs [px, py])).toArray rfl ?_; intro u28 ha28 hza28 hga28; have Ngp_28 : Hid (RAt u28 w.heap.size [px, py]) := Lib.hid (⟨_, ha28⟩); have HF_28 : Hid (Below w.heap.size w u28) := Lib.hid (HF_0.out.grown hga28 HF_0.out.size (by simp)); have HGE28 : Hid (w.heap.size ≤ w.heap.size) := Lib.hid HF_0.out.size; clear ha28 hza28 hga28 HF_0)) | ((with_reducible show wpList _ _ _ (⟨some 4, .box 35 (.tmp 1), _, _, _, _⟩ :: _) _ _); go_must (refine wpList_box_row rfl 35 (.tmp 1) rfl (bcs (encs [qx, qy])).toArray rfl ?_; intro u29 ha29 hza29 hga29; have Ngp_29 := Lib.hid (Ngp_28.out.grown hga29 (by simp)); have Ngq_29 : Hid (RAt u29 u28.heap.size [qx, qy]) := Lib.hid (⟨_, ha29⟩); have HF_29 : Hid (Below w.heap.size w u29) := Lib.hid (HF_28.out.grown hga29 HF_28.out.size (by simp)); have HNE29_0 : Hid (w.heap.size ≠ u28.heap.size) := Lib.hid (by have := Ngp_28.out.lt; omega); have HGE29 : Hid (w.heap.size ≤ u28.heap.size) := Lib.hid HF_28.out.size; clear ha29 hza29 hga29 Ngp_28 HF_28)) | ((with_reducible show wpList _ _ _ (⟨some 5, .box 23 (.tmp 2), _, _, _, _⟩ :: _) _ _); go_must (refine wpList_box_row rfl 23 (.tmp 2) rfl (bcs (enc a)).toArray rfl ?_; intro u30 ha30 hza30 hga30; have Ngp_30 := Lib.hid (Ngp_29.out.grown hga30 (by simp)); have Ngq_30 := Lib.hid (Ngq_29.out.grown hga30 (by simp)); have Nga_30 : Hid (RAt u30 u29.heap.size [a]) := Lib.hid (NAt.row ⟨_, ha30⟩); have HF_30 : Hid (Below w.heap.size w u30) := Lib.hid (HF_29.out.grown hga30 HF_29.out.size (by simp)); have HNE30_1 : Hid (w.heap.size ≠ u29.heap.size) := Lib.hid (by have := Ngp_29.out.lt; omega); have HNE30_2 : Hid (u28.heap.size ≠ u29.heap.size) := Lib.hid (by have := Ngq_29.out.lt; omega); have HGE30 : Hid (w.heap.size ≤ u29.heap.size) := Lib.hid HF_29.out.size; clear ha30 hza30 hga30 Ngp_29 Ngq_29 HF_29)) | fail)
  generalize u28.heap.size = gq at *
  generalize u29.heap.size = ga at *
  refine (C0.out _).mono ?_
  rintro e31 x31 ⟨rfl, hb31⟩
  have Ngp_31 := Lib.hid (Ngp_30.out.keep hb31)
  have Ngq_31 := Lib.hid (Ngq_30.out.keep hb31)
  have Nga_31 := Lib.hid (Nga_30.out.keep hb31)
  have HF_31 : Hid (Below w.heap.size w x31) := Lib.hid (HF_30.out.trans (hb31.mono HF_30.out.size))
  clear hb31 Ngp_30 Ngq_30 Nga_30 HF_30
  go_wp2_with (first | ((with_reducible show wpList _ _ _ (⟨_, .load 35 (.tmp 3), _, _, _, _⟩ :: _) _ _); go_must (refine wpList_exec rfl (vR [px, py]) (exec_loadP (.tmp 3) rfl (w.heap.size) px py rfl Ngp_31.out) ?_)) | fail)
  refine (C1.out _).mono ?_
  rintro e32 x32 ⟨rfl, hb32⟩
  have Ngp_32 := Lib.hid (Ngp_31.out.keep hb32)
  have Ngq_32 := Lib.hid (Ngq_31.out.keep hb32)
  have Nga_32 := Lib.hid (Nga_31.out.keep hb32)
  have HF_32 : Hid (Below w.heap.size w x32) := Lib.hid (HF_31.out.trans (hb32.mono HF_31.out.size))
  clear hb32 Ngp_31 Ngq_31 Nga_31 HF_31
  go_wp2_with (first | ((with_reducible show wpList _ _ _ (⟨_, .load 35 (.tmp 4), _, _, _, _⟩ :: _) _ _); go_must (refine wpList_exec rfl (vR [qx, qy]) (exec_loadP (.tmp 4) rfl (gq) qx qy rfl Ngq_32.out) ?_)) | fail)
  refine (C2.out _).mono ?_
  rintro e33 x33 ⟨rfl, hb33⟩
  have Ngp_33 := Lib.hid (Ngp_32.out.keep hb33)
  have Ngq_33 := Lib.hid (Ngq_32.out.keep hb33)
  have Nga_33 := Lib.hid (Nga_32.out.keep hb33)
  have HF_33 : Hid (Below w.heap.size w x33) := Lib.hid (HF_32.out.trans (hb33.mono HF_32.out.size))
  clear hb33 Ngp_32 Ngq_32 Nga_32 HF_32
  go_wp2_with (first | ((with_reducible show wpList _ _ _ (⟨_, .load 35 (.tmp 3), _, _, _, _⟩ :: _) _ _); go_must (refine wpList_exec rfl (vR [px, py]) (exec_loadP (.tmp 3) rfl (w.heap.size) px py rfl Ngp_33.out) ?_)) | fail)
  refine (C3.out _).mono ?_
  rintro e34 x34 ⟨rfl, hb34⟩
  have Ngp_34 := Lib.hid (Ngp_33.out.keep hb34)
  have Ngq_34 := Lib.hid (Ngq_33.out.keep hb34)
  have Nga_34 := Lib.hid (Nga_33.out.keep hb34)
  have HF_34 : Hid (Below w.heap.size w x34) := Lib.hid (HF_33.out.trans (hb34.mono HF_33.out.size))
  clear hb34 Ngp_33 Ngq_33 Nga_33 HF_33
  go_wp2_with (first | ((with_reducible show wpList _ _ _ (⟨some 7, .alloc 35, _, _, _, _⟩ :: _) _ _); go_must (refine wpList_alloc_row rfl 35 rfl (.agg (zbs 64)) zero35 ?_; intro u35 ha35 hza35 hga35; have HA35 := Lib.hid ha35; have HZA35 := Lib.hid hza35; have HGA35 := Lib.hid hga35; clear ha35 hza35 hga35)) | ((with_reducible show wpList _ _ _ (⟨none, .store 35 (.tmp 7) (.tmp 24), _, _, _, _⟩ :: _) _ _); go_must (refine wpList_storeP rfl (.tmp 7) (.tmp 24) rfl (x34.heap.size) [0, 0] tx ty rfl rfl (zrow (k := 2) HA35.out) rfl ?_; intro y35 hr35 hg35 hz35; have Ngp_35 := Lib.hid ((Ngp_34.out.grown HGA35.out (by simp)).grown hg35 (by have := Ngp_34.out.lt; simp; omega)); have Ngq_35 := Lib.hid ((Ngq_34.out.grown HGA35.out (by simp)).grown hg35 (by have := Ngq_34.out.lt; simp; omega)); have Nga_35 := Lib.hid ((Nga_34.out.grown HGA35.out (by simp)).grown hg35 (by have := Nga_34.out.lt; simp; omega)); have Ngt_35 : Hid (RAt y35 x34.heap.size [tx, ty]) := Lib.hid hr35; have HF_35 : Hid (Below w.heap.size w y35) := Lib.hid ((HF_34.out.grown HGA35.out HF_34.out.size (by simp)).grown hg35 (by have := HF_34.out.size; have := HZA35.out; omega) (fun r hr => by injection hr with hr; have := HF_34.out.size; omega)); have HNE35_3 : Hid (w.heap.size ≠ x34.heap.size) := Lib.hid (by have := Ngp_34.out.lt; omega); have HNE35_4 : Hid (gq ≠ x34.heap.size) := Lib.hid (by have := Ngq_34.out.lt; omega); have HNE35_5 : Hid (ga ≠ x34.heap.size) := Lib.hid (by have := Nga_34.out.lt; omega); have HGE35 : Hid (w.heap.size ≤ x34.heap.size) := Lib.hid HF_34.out.size; clear hr35 hg35 hz35 HA35 HZA35 HGA35 Ngp_34 Ngq_34 Nga_34 HF_34)) | ((with_reducible show wpList _ _ _ (⟨_, .load 35 (.tmp 7), _, _, _, _⟩ :: _) _ _); go_must (refine wpList_exec rfl (vR [tx, ty]) (exec_loadP (.tmp 7) rfl (x34.heap.size) tx ty rfl Ngt_35.out) ?_)) | fail)
  generalize x34.heap.size = gt at *
  refine (C4.out _).mono ?_
  rintro e36 x36 ⟨rfl, hb36⟩
  have Ngp_36 := Lib.hid (Ngp_35.out.keep hb36)
  have Ngq_36 := Lib.hid (Ngq_35.out.keep hb36)
  have Nga_36 := Lib.hid (Nga_35.out.keep hb36)
  have Ngt_36 := Lib.hid (Ngt_35.out.keep hb36)
  have HF_36 : Hid (Below w.heap.size w x36) := Lib.hid (HF_35.out.trans (hb36.mono HF_35.out.size))
  clear hb36 Ngp_35 Ngq_35 Nga_35 Ngt_35 HF_35
  go_wp2_with (first | ((with_reducible show wpList _ _ _ (⟨some 8, .alloc 35, _, _, _, _⟩ :: _) _ _); go_must (refine wpList_alloc_row rfl 35 rfl (.agg (zbs 64)) zero35 ?_; intro u37 ha37 hza37 hga37; have HA37 := Lib.hid ha37; have HZA37 := Lib.hid hza37; have HGA37 := Lib.hid hga37; clear ha37 hza37 hga37)) | ((with_reducible show wpList _ _ _ (⟨none, .store 35 (.tmp 8) (.tmp 27), _, _, _, _⟩ :: _) _ _); go_must (refine wpList_storeP rfl (.tmp 8) (.tmp 27) rfl (x36.heap.size) [0, 0] fx fy rfl rfl (zrow (k := 2) HA37.out) rfl ?_; intro y37 hr37 hg37 hz37; have Ngp_37 := Lib.hid ((Ngp_36.out.grown HGA37.out (by simp)).grown hg37 (by have := Ngp_36.out.lt; simp; omega)); have Ngq_37 := Lib.hid ((Ngq_36.out.grown HGA37.out (by simp)).grown hg37 (by have := Ngq_36.out.lt; simp; omega)); have Nga_37 := Lib.hid ((Nga_36.out.grown HGA37.out (by simp)).grown hg37 (by have := Nga_36.out.lt; simp; omega)); have Ngt_37 := Lib.hid ((Ngt_36.out.grown HGA37.out (by simp)).grown hg37 (by have := Ngt_36.out.lt; simp; omega)); have Ngf_37 : Hid (RAt y37 x36.heap.size [fx, fy]) := Lib.hid hr37; have HF_37 : Hid (Below w.heap.size w y37) := Lib.hid ((HF_36.out.grown HGA37.out HF_36.out.size (by simp)).grown hg37 (by have := HF_36.out.size; have := HZA37.out; omega) (fun r hr => by injection hr with hr; have := HF_36.out.size; omega)); have HNE37_6 : Hid (w.heap.size ≠ x36.heap.size) := Lib.hid (by have := Ngp_36.out.lt; omega); have HNE37_7 : Hid (gq ≠ x36.heap.size) := Lib.hid (by have := Ngq_36.out.lt; omega); have HNE37_8 : Hid (ga ≠ x36.heap.size) := Lib.hid (by have := Nga_36.out.lt; omega); have HNE37_9 : Hid (gt ≠ x36.heap.size) := Lib.hid (by have := Ngt_36.out.lt; omega); have HGE37 : Hid (w.heap.size ≤ x36.heap.size) := Lib.hid HF_36.out.size; clear hr37 hg37 hz37 HA37 HZA37 HGA37 Ngp_36 Ngq_36 Nga_36 Ngt_36 HF_36)) | fail)
  generalize x36.heap.size = gf at *
  refine region_wq2 (by kernel_rfl) (by kernel_rfl) (by kernel_rfl) ?_
  refine wq_loadP rfl (.tmp 3) rfl (w.heap.size) px py rfl Ngp_37.out ?_
  simp only [Act.put, List.setIfInBounds_toArray, List.set_cons_zero, List.set_cons_succ]
  refine wq_call rfl 43 [.tmp 28] #[35] rfl [vR [px, py]] rfl (CG43 _) (.bool false) C5.out ?_
  simp only [Act.put, List.setIfInBounds_toArray, List.set_cons_zero, List.set_cons_succ]
  refine wq_loadP rfl (.tmp 8) rfl (gf) fx fy rfl Ngf_37.out ?_
  simp only [Act.put, List.setIfInBounds_toArray, List.set_cons_zero, List.set_cons_succ]
  refine wq_loadP rfl (.tmp 8) rfl (gf) fx fy rfl Ngf_37.out ?_
  simp only [Act.put, List.setIfInBounds_toArray, List.set_cons_zero, List.set_cons_succ]
  refine wq_call rfl 44 [.tmp 30, .tmp 31] #[35, 35] rfl [vR [fx, fy], vR [fx, fy]] rfl (CG44 _) (vR [ex, ey]) C6.out ?_
  simp only [Act.put, List.setIfInBounds_toArray, List.set_cons_zero, List.set_cons_succ]
  refine wq_call rfl 39 [] #[] rfl [] rfl (CG39 _) (vR [0, 1]) C7.out ?_
  simp only [Act.put, List.setIfInBounds_toArray, List.set_cons_zero, List.set_cons_succ]
  refine wq_eqP rfl (.tmp 32) (.tmp 33) rfl ex ey 0 1 rfl rfl false HE.out ?_
  simp only [Act.put, List.setIfInBounds_toArray, List.set_cons_zero, List.set_cons_succ]
  refine wq_bin (P := Try.prog) rfl .neq 4 4 (.tmp 29) (.tmp 34) rfl (.bool false) (.bool false) (.bool false) rfl rfl (fun _ => rfl) (run_neqB false) ?_
  simp only [Act.put, List.setIfInBounds_toArray, List.set_cons_zero, List.set_cons_succ]
  refine wq_move rfl (.tmp 35) rfl (.bool false) rfl ?_
  simp only [Act.put, List.setIfInBounds_toArray, List.set_cons_zero, List.set_cons_succ]
  refine wq_loadP rfl (.tmp 3) rfl (w.heap.size) px py rfl Ngp_37.out ?_
  simp only [Act.put, List.setIfInBounds_toArray, List.set_cons_zero, List.set_cons_succ]
  refine wq_call rfl 43 [.tmp 37] #[35] rfl [vR [px, py]] rfl (CG43 _) (.bool false) C5.out ?_
  simp only [Act.put, List.setIfInBounds_toArray, List.set_cons_zero, List.set_cons_succ]
  refine wq_move rfl (.tmp 38) rfl (.bool false) rfl ?_
  simp only [Act.put, List.setIfInBounds_toArray, List.set_cons_zero, List.set_cons_succ]
  refine wq_skip (by kernel_rfl) ?_
  simp only [Act.put, List.setIfInBounds_toArray, List.set_cons_zero, List.set_cons_succ]
  refine wq_skip (by kernel_rfl) ?_
  simp only [Act.put, List.setIfInBounds_toArray, List.set_cons_zero, List.set_cons_succ]
  refine wq_skip (by kernel_rfl) ?_
  simp only [Act.put, List.setIfInBounds_toArray, List.set_cons_zero, List.set_cons_succ]
  as_aux_lemma =>
    refine wq_skip (by kernel_rfl) ?_
    simp only [Act.put, List.setIfInBounds_toArray, List.set_cons_zero, List.set_cons_succ]
    refine wq_skip (by kernel_rfl) ?_
    simp only [Act.put, List.setIfInBounds_toArray, List.set_cons_zero, List.set_cons_succ]
    refine wq_skip (by kernel_rfl) ?_
    simp only [Act.put, List.setIfInBounds_toArray, List.set_cons_zero, List.set_cons_succ]
    refine wq_skip (by kernel_rfl) ?_
    simp only [Act.put, List.setIfInBounds_toArray, List.set_cons_zero, List.set_cons_succ]
    refine wq_pick rfl (.tmp 39) (.tmp 46) (.const (.bool false)) rfl false rfl (.bool false) rfl ?_
    simp only [Act.put, List.setIfInBounds_toArray, List.set_cons_zero, List.set_cons_succ]
    refine wq_pick rfl (.tmp 36) (.const (.bool true)) (.tmp 47) rfl false rfl (.bool false) rfl ?_
    simp only [Act.put, List.setIfInBounds_toArray, List.set_cons_zero, List.set_cons_succ]
    refine wq_move rfl (.tmp 48) rfl (.bool false) rfl ?_
    simp only [Act.put, List.setIfInBounds_toArray, List.set_cons_zero, List.set_cons_succ]
    refine wq_loadP rfl (.tmp 3) rfl (w.heap.size) px py rfl Ngp_37.out ?_
    simp only [Act.put, List.setIfInBounds_toArray, List.set_cons_zero, List.set_cons_succ]
    refine wq_call rfl 51 [.tmp 50] #[35] rfl [vR [px, py]] rfl (CG51 _) (vR [nx, ny]) C8.out ?_
    simp only [Act.put, List.setIfInBounds_toArray, List.set_cons_zero, List.set_cons_succ]
    refine wq_call rfl 43 [.tmp 51] #[35] rfl [vR [nx, ny]] rfl (CG43 _) (.bool false) C9.out ?_
    simp only [Act.put, List.setIfInBounds_toArray, List.set_cons_zero, List.set_cons_succ]
    refine wq_loadP rfl (.tmp 3) rfl (w.heap.size) px py rfl Ngp_37.out ?_
    simp only [Act.put, List.setIfInBounds_toArray, List.set_cons_zero, List.set_cons_succ]
    refine wq_call rfl 43 [.tmp 53] #[35] rfl [vR [px, py]] rfl (CG43 _) (.bool false) C5.out ?_
    simp only [Act.put, List.setIfInBounds_toArray, List.set_cons_zero, List.set_cons_succ]
    refine wq_bin (P := Try.prog) rfl .neq 4 4 (.tmp 52) (.tmp 54) rfl (.bool false) (.bool false) (.bool false) rfl rfl (fun _ => rfl) (run_neqB false) ?_
    simp only [Act.put, List.setIfInBounds_toArray, List.set_cons_zero, List.set_cons_succ]
    refine wq_pick rfl (.tmp 49) (.const (.bool true)) (.tmp 55) rfl false rfl (.bool false) rfl ?_
    simp only [Act.put, List.setIfInBounds_toArray, List.set_cons_zero, List.set_cons_succ]
    refine wq_nil ?_
    intro W38 hb38
    have Ngp_38 := Lib.hid (Ngp_37.out.keep hb38)
    have Ngq_38 := Lib.hid (Ngq_37.out.keep hb38)
    have Nga_38 := Lib.hid (Nga_37.out.keep hb38)
    have Ngt_38 := Lib.hid (Ngt_37.out.keep hb38)
    have Ngf_38 := Lib.hid (Ngf_37.out.keep hb38)
    have HF_38 : Hid (Below w.heap.size w W38) := Lib.hid (HF_37.out.trans (hb38.mono HF_37.out.size))
    clear hb38 Ngp_37 Ngq_37 Nga_37 Ngt_37 Ngf_37 HF_37
    go_wp2_with fail
    have HLT39_0 : Hid (w.heap.size < W38.heap.size) := Lib.hid Ngp_38.out.lt
    have HLT39_1 : Hid (gq < W38.heap.size) := Lib.hid Ngq_38.out.lt
    have HLT39_2 : Hid (ga < W38.heap.size) := Lib.hid Nga_38.out.lt
    have HLT39_3 : Hid (gt < W38.heap.size) := Lib.hid Ngt_38.out.lt
    have HLT39_4 : Hid (gf < W38.heap.size) := Lib.hid Ngf_38.out.lt
    have HLO39 : Hid (w.heap.size ≤ W38.heap.size) := Lib.hid HF_38.out.size
    refine region_split (fun a' W => ∃ a39_0, RAt W w.heap.size [px, py] ∧ RAt W gq [qx, qy] ∧ RAt W ga [a] ∧ RAt W gt [tx, ty] ∧ RAt W gf [fx, fy] ∧ RAt W a39_0 [bx, by_] ∧ W38.heap.size ≤ a39_0 ∧ Below w.heap.size w W ∧ a' = ⟨#[vR [px, py], vR [qx, qy], vN a, .pointer (some ⟨w.heap.size, 0, none⟩), .pointer (some ⟨gq, 0, none⟩), .pointer (some ⟨ga, 0, none⟩), .bool false, .pointer (some ⟨gt, 0, none⟩), .pointer (some ⟨gf, 0, none⟩), .pointer (some ⟨a39_0, 0, none⟩), undef, undef, .bool true, .bool false, vR [px, py], .int .i64 0, .bool false, .bool false, vR [qx, qy], .int .i64 0, .bool false, .bool false, vR [px, py], vR [px, py], vR [tx, ty], vR [tx, ty], vR [tx, ty], vR [fx, fy], vR [px, py], .bool false, vR [fx, fy], vR [fx, fy], vR [ex, ey], vR [0, 1], .bool false, .bool false, .bool false, vR [px, py], .bool false, .bool false, undef, undef, undef, undef, undef, undef, undef, .bool false, .bool false, .bool false, vR [px, py], vR [nx, ny], .bool false, vR [px, py], .bool false, .bool false, .bool false, vN a, vR [gx, gy], vR [bx, by_], undef, undef, undef, undef, undef, undef, undef, undef, undef, undef, undef, undef, undef, undef, undef, undef, undef, undef, undef, undef, undef, undef, undef, undef], []⟩) ?_ ?_
    · refine startW (fun j => j == 4) (W38.heap.size) (by kernel_rfl) ?_
      obtain ⟨D39, hD39⟩ : ∃ D, D = W38.drew := ⟨_, rfl⟩
      rw [← hD39]
      have HL_39 : Hid (W38.heap.size ≤ D39.heap.size) := Lib.hid (by rw [hD39]; exact Nat.le_refl _)
      have Ngp_39 : Hid (RAt D39 w.heap.size [px, py]) := Lib.hid (by rw [hD39]; exact Ngp_38.out)
      have Ngq_39 : Hid (RAt D39 gq [qx, qy]) := Lib.hid (by rw [hD39]; exact Ngq_38.out)
      have Nga_39 : Hid (RAt D39 ga [a]) := Lib.hid (by rw [hD39]; exact Nga_38.out)
      have Ngt_39 : Hid (RAt D39 gt [tx, ty]) := Lib.hid (by rw [hD39]; exact Ngt_38.out)
      have Ngf_39 : Hid (RAt D39 gf [fx, fy]) := Lib.hid (by rw [hD39]; exact Ngf_38.out)
      have HF_39 : Hid (Below w.heap.size w D39) := Lib.hid (by rw [hD39]; exact below_drewN' HF_38.out 1)
      clear hD39 Ngp_38 Ngq_38 Nga_38 Ngt_38 Ngf_38 HF_38
      refine takeT (i := 0) (oi := { dst := some 57, op := Op.load 23 (Operand.tmp 5), type := 23, pos := "law.go:126", after := #[], guard := none }) (vN a) rfl (by kernel_rfl) (by kernel_rfl) (by kernel_rfl) (by kernel_rfl) (by kernel_rfl) (fun _ _ _ h => nomatch h.1) (by rfl) (fun w' hk => exec_loadF (.tmp 5) rfl (ga) 0 0 rfl [a] a rfl (Nga_39.out.below hk HLT39_2.out) rfl) ?_
      simp only [Act.put, List.setIfInBounds_toArray, List.set_cons_zero, List.set_cons_succ]
      refine eachW [1, 3] (by kernel_rfl) (by simp) ?_
      intro k hk
      simp only [List.mem_cons, List.not_mem_nil, or_false] at hk
      rcases hk with rfl | rfl
      · refine wpOp_call (i := 1) (oi := { dst := some 58, op := Op.call { callee := Callee.value (Operand.func 42), args := #[], argTypes := #[] }, type := 35, pos := "law.go:126", after := #[], guard := none }) rfl (by rfl) (exec_callL 42 [] #[] rfl [] rfl (CG42 _)) ((C10.out D39).mono ?_)
        rintro e40 W40 ⟨rfl, hb40⟩
        refine ⟨_, rfl, fun _ => hb40.mono HL_39.out, ?_⟩
        have Ngp_40 := Lib.hid (Ngp_39.out.keep hb40)
        have Ngq_40 := Lib.hid (Ngq_39.out.keep hb40)
        have Nga_40 := Lib.hid (Nga_39.out.keep hb40)
        have Ngt_40 := Lib.hid (Ngt_39.out.keep hb40)
        have Ngf_40 := Lib.hid (Ngf_39.out.keep hb40)
        have HF_40 : Hid (Below w.heap.size w W40) := Lib.hid (HF_39.out.trans (hb40.mono HF_39.out.size))
        have HL_40 : Hid (W38.heap.size ≤ W40.heap.size) := Lib.hid (Nat.le_trans HL_39.out hb40.size)
        clear hb40 HL_39 Ngp_39 Ngq_39 Nga_39 Ngt_39 Ngf_39 HF_39
        simp only [Act.put, List.setIfInBounds_toArray, List.set_cons_zero, List.set_cons_succ]
        refine eachW [2, 3] (by kernel_rfl) (by simp) ?_
        intro k hk
        simp only [List.mem_cons, List.not_mem_nil, or_false] at hk
        rcases hk with rfl | rfl
        · refine wpOp_call (i := 2) (oi := { dst := some 59, op := Op.call { callee := Callee.value (Operand.func 41), args := #[Operand.tmp 57, Operand.tmp 58], argTypes := #[23, 35] }, type := 35, pos := "law.go:126", after := #[{ on := 0, ground := Ground.data }, { on := 1, ground := Ground.data }, { on := 1, ground := Ground.chain }], guard := none }) rfl (by rfl) (exec_callL 41 [.tmp 57, .tmp 58] #[23, 35] rfl [vN a, vR [gx, gy]] rfl (CG41 _)) ((C11.out W40).mono ?_)
          rintro e41 W41 ⟨rfl, hb41⟩
          refine ⟨_, rfl, fun _ => hb41.mono HL_40.out, ?_⟩
          have Ngp_41 := Lib.hid (Ngp_40.out.keep hb41)
          have Ngq_41 := Lib.hid (Ngq_40.out.keep hb41)
          have Nga_41 := Lib.hid (Nga_40.out.keep hb41)
          have Ngt_41 := Lib.hid (Ngt_40.out.keep hb41)
          have Ngf_41 := Lib.hid (Ngf_40.out.keep hb41)
          have HF_41 : Hid (Below w.heap.size w W41) := Lib.hid (HF_40.out.trans (hb41.mono HF_40.out.size))
          have HL_41 : Hid (W38.heap.size ≤ W41.heap.size) := Lib.hid (Nat.le_trans HL_40.out hb41.size)
          clear hb41 HL_40 Ngp_40 Ngq_40 Nga_40 Ngt_40 Ngf_40 HF_40
          simp only [Act.put, List.setIfInBounds_toArray, List.set_cons_zero, List.set_cons_succ]
          refine opW _ _ (i := 3) (oi := { dst := some 9, op := Op.alloc 35, type := 0, pos := "law.go:126", after := #[], guard := none }) rfl (by kernel_rfl) (by rfl) (exec_alloc 35 rfl (.agg (zbs 64)) zero35 W41) (fun _ => (below_alloc W41 _).mono HL_41.out) ?_
          obtain ⟨W42, hW42, hb42, hz42⟩ := alloc_zeroP W41
          rw [← hW42]
          obtain ⟨g42, hg42⟩ : ∃ g, g = W41.heap.size := ⟨_, rfl⟩
          rw [← hg42] at hz42 ⊢
          have HG42 : Hid (W38.heap.size ≤ g42) := Lib.hid (by rw [hg42]; exact HL_41.out)
          have HX42_10 : Hid (w.heap.size ≠ g42) := Lib.hid (by have := Ngp_41.out.lt; omega)
          have HX42_11 : Hid (gq ≠ g42) := Lib.hid (by have := Ngq_41.out.lt; omega)
          have HX42_12 : Hid (ga ≠ g42) := Lib.hid (by have := Nga_41.out.lt; omega)
          have HX42_13 : Hid (gt ≠ g42) := Lib.hid (by have := Ngt_41.out.lt; omega)
          have HX42_14 : Hid (gf ≠ g42) := Lib.hid (by have := Ngf_41.out.lt; omega)
          have Ngp_42 := Lib.hid (Ngp_41.out.keep hb42)
          have Ngq_42 := Lib.hid (Ngq_41.out.keep hb42)
          have Nga_42 := Lib.hid (Nga_41.out.keep hb42)
          have Ngt_42 := Lib.hid (Ngt_41.out.keep hb42)
          have Ngf_42 := Lib.hid (Ngf_41.out.keep hb42)
          have HF_42 : Hid (Below w.heap.size w W42) := Lib.hid (HF_41.out.trans (hb42.mono HF_41.out.size))
          have HL_42 : Hid (W38.heap.size ≤ W42.heap.size) := Lib.hid (Nat.le_trans HL_41.out hb42.size)
          have RZ42_42 : Hid (RAt W42 g42 [0, 0]) := Lib.hid (zrow (k := 2) hz42)
          clear hb42 hz42 hg42 hW42 HL_41 Ngp_41 Ngq_41 Nga_41 Ngt_41 Ngf_41 HF_41
          simp only [Act.put, List.setIfInBounds_toArray, List.set_cons_zero, List.set_cons_succ]
          refine storeW_P (i := 4) (oi := { dst := none, op := Op.store 35 (Operand.tmp 9) (Operand.tmp 59), type := 0, pos := "law.go:126", after := #[{ on := 3, ground := Ground.data }, { on := 2, ground := Ground.data }, { on := 2, ground := Ground.chain }, { on := 0, ground := Ground.phase }, { on := 1, ground := Ground.phase }, { on := 2, ground := Ground.phase }, { on := 3, ground := Ground.phase }], guard := none }) rfl (by kernel_rfl) (by rfl) (.tmp 9) (.tmp 59) rfl (g42) [0, 0] bx by_ rfl rfl RZ42_42.out rfl rfl ?_
          intro W43 hr43 hg43 hz43
          simp only [Act.put, List.setIfInBounds_toArray, List.set_cons_zero, List.set_cons_succ]
          have Ngp_43 := Lib.hid (Ngp_42.out.grown hg43 (by have := HX42_10.out; simp; omega))
          have Ngq_43 := Lib.hid (Ngq_42.out.grown hg43 (by have := HX42_11.out; simp; omega))
          have Nga_43 := Lib.hid (Nga_42.out.grown hg43 (by have := HX42_12.out; simp; omega))
          have Ngt_43 := Lib.hid (Ngt_42.out.grown hg43 (by have := HX42_13.out; simp; omega))
          have Ngf_43 := Lib.hid (Ngf_42.out.grown hg43 (by have := HX42_14.out; simp; omega))
          have RZ42_43 : Hid (RAt W43 g42 [bx, by_]) := Lib.hid hr43
          have HF_43 : Hid (Below w.heap.size w W43) := Lib.hid (HF_42.out.grown hg43 HF_42.out.size (fun r hr => by injection hr with hr; have := (show w.heap.size ≤ g42 from (by have := HG42.out; have := HLO39.out; omega)); omega))
          have HL_43 : Hid (W38.heap.size ≤ W43.heap.size) := Lib.hid (Nat.le_trans HL_42.out hg43.size)
          clear hr43 hg43 hz43 HL_42 Ngp_42 Ngq_42 Nga_42 Ngt_42 Ngf_42 RZ42_42 HF_42
          refine doneW (by kernel_rfl) ⟨rfl, ?_⟩ _
          exact ⟨g42, Ngp_43.out, Ngq_43.out, Nga_43.out, Ngt_43.out, Ngf_43.out, RZ42_43.out, HG42.out, HF_43.out, rfl⟩
        · refine wpOp_value (i := 3) (oi := { dst := some 9, op := Op.alloc 35, type := 0, pos := "law.go:126", after := #[], guard := none }) rfl (by rfl) (exec_alloc 35 rfl (.agg (zbs 64)) zero35 W40) ⟨fun _ => (below_alloc W40 _).mono HL_40.out, ?_⟩
          obtain ⟨W44, hW44, hb44, hz44⟩ := alloc_zeroP W40
          rw [← hW44]
          obtain ⟨g44, hg44⟩ : ∃ g, g = W40.heap.size := ⟨_, rfl⟩
          rw [← hg44] at hz44 ⊢
          have HG44 : Hid (W38.heap.size ≤ g44) := Lib.hid (by rw [hg44]; exact HL_40.out)
          have HX44_10 : Hid (w.heap.size ≠ g44) := Lib.hid (by have := Ngp_40.out.lt; omega)
          have HX44_11 : Hid (gq ≠ g44) := Lib.hid (by have := Ngq_40.out.lt; omega)
          have HX44_12 : Hid (ga ≠ g44) := Lib.hid (by have := Nga_40.out.lt; omega)
          have HX44_13 : Hid (gt ≠ g44) := Lib.hid (by have := Ngt_40.out.lt; omega)
          have HX44_14 : Hid (gf ≠ g44) := Lib.hid (by have := Ngf_40.out.lt; omega)
          have Ngp_44 := Lib.hid (Ngp_40.out.keep hb44)
          have Ngq_44 := Lib.hid (Ngq_40.out.keep hb44)
          have Nga_44 := Lib.hid (Nga_40.out.keep hb44)
          have Ngt_44 := Lib.hid (Ngt_40.out.keep hb44)
          have Ngf_44 := Lib.hid (Ngf_40.out.keep hb44)
          have HF_44 : Hid (Below w.heap.size w W44) := Lib.hid (HF_40.out.trans (hb44.mono HF_40.out.size))
          have HL_44 : Hid (W38.heap.size ≤ W44.heap.size) := Lib.hid (Nat.le_trans HL_40.out hb44.size)
          have RZ44_44 : Hid (RAt W44 g44 [0, 0]) := Lib.hid (zrow (k := 2) hz44)
          clear hb44 hz44 hg44 hW44 HL_40 Ngp_40 Ngq_40 Nga_40 Ngt_40 Ngf_40 HF_40
          simp only [Act.put, List.setIfInBounds_toArray, List.set_cons_zero, List.set_cons_succ]
          refine callW (i := 2) (oi := { dst := some 59, op := Op.call { callee := Callee.value (Operand.func 41), args := #[Operand.tmp 57, Operand.tmp 58], argTypes := #[23, 35] }, type := 35, pos := "law.go:126", after := #[{ on := 0, ground := Ground.data }, { on := 1, ground := Ground.data }, { on := 1, ground := Ground.chain }], guard := none }) rfl (by kernel_rfl) (by rfl) (exec_callL 41 [.tmp 57, .tmp 58] #[23, 35] rfl [vN a, vR [gx, gy]] rfl (CG41 _)) ((C11.out W44).mono ?_)
          rintro e45 W45 ⟨rfl, hb45⟩
          refine ⟨_, rfl, fun _ => hb45.mono HL_44.out, ?_⟩
          have Ngp_45 := Lib.hid (Ngp_44.out.keep hb45)
          have Ngq_45 := Lib.hid (Ngq_44.out.keep hb45)
          have Nga_45 := Lib.hid (Nga_44.out.keep hb45)
          have Ngt_45 := Lib.hid (Ngt_44.out.keep hb45)
          have Ngf_45 := Lib.hid (Ngf_44.out.keep hb45)
          have RZ44_45 := Lib.hid (RZ44_44.out.keep hb45)
          have HF_45 : Hid (Below w.heap.size w W45) := Lib.hid (HF_44.out.trans (hb45.mono HF_44.out.size))
          have HL_45 : Hid (W38.heap.size ≤ W45.heap.size) := Lib.hid (Nat.le_trans HL_44.out hb45.size)
          clear hb45 HL_44 Ngp_44 Ngq_44 Nga_44 Ngt_44 Ngf_44 RZ44_44 HF_44
          simp only [Act.put, List.setIfInBounds_toArray, List.set_cons_zero, List.set_cons_succ]
          refine storeW_P (i := 4) (oi := { dst := none, op := Op.store 35 (Operand.tmp 9) (Operand.tmp 59), type := 0, pos := "law.go:126", after := #[{ on := 3, ground := Ground.data }, { on := 2, ground := Ground.data }, { on := 2, ground := Ground.chain }, { on := 0, ground := Ground.phase }, { on := 1, ground := Ground.phase }, { on := 2, ground := Ground.phase }, { on := 3, ground := Ground.phase }], guard := none }) rfl (by kernel_rfl) (by rfl) (.tmp 9) (.tmp 59) rfl (g44) [0, 0] bx by_ rfl rfl RZ44_45.out rfl rfl ?_
          intro W46 hr46 hg46 hz46
          simp only [Act.put, List.setIfInBounds_toArray, List.set_cons_zero, List.set_cons_succ]
          have Ngp_46 := Lib.hid (Ngp_45.out.grown hg46 (by have := HX44_10.out; simp; omega))
          have Ngq_46 := Lib.hid (Ngq_45.out.grown hg46 (by have := HX44_11.out; simp; omega))
          have Nga_46 := Lib.hid (Nga_45.out.grown hg46 (by have := HX44_12.out; simp; omega))
          have Ngt_46 := Lib.hid (Ngt_45.out.grown hg46 (by have := HX44_13.out; simp; omega))
          have Ngf_46 := Lib.hid (Ngf_45.out.grown hg46 (by have := HX44_14.out; simp; omega))
          have RZ44_46 : Hid (RAt W46 g44 [bx, by_]) := Lib.hid hr46
          have HF_46 : Hid (Below w.heap.size w W46) := Lib.hid (HF_45.out.grown hg46 HF_45.out.size (fun r hr => by injection hr with hr; have := (show w.heap.size ≤ g44 from (by have := HG44.out; have := HLO39.out; omega)); omega))
          have HL_46 : Hid (W38.heap.size ≤ W46.heap.size) := Lib.hid (Nat.le_trans HL_45.out hg46.size)
          clear hr46 hg46 hz46 HL_45 Ngp_45 Ngq_45 Nga_45 Ngt_45 Ngf_45 RZ44_45 HF_45
          refine doneW (by kernel_rfl) ⟨rfl, ?_⟩ _
          exact ⟨g44, Ngp_46.out, Ngq_46.out, Nga_46.out, Ngt_46.out, Ngf_46.out, RZ44_46.out, HG44.out, HF_46.out, rfl⟩
      · refine wpOp_value (i := 3) (oi := { dst := some 9, op := Op.alloc 35, type := 0, pos := "law.go:126", after := #[], guard := none }) rfl (by rfl) (exec_alloc 35 rfl (.agg (zbs 64)) zero35 D39) ⟨fun _ => (below_alloc D39 _).mono HL_39.out, ?_⟩
        obtain ⟨W47, hW47, hb47, hz47⟩ := alloc_zeroP D39
        rw [← hW47]
        obtain ⟨g47, hg47⟩ : ∃ g, g = D39.heap.size := ⟨_, rfl⟩
        rw [← hg47] at hz47 ⊢
        have HG47 : Hid (W38.heap.size ≤ g47) := Lib.hid (by rw [hg47]; exact HL_39.out)
        have HX47_10 : Hid (w.heap.size ≠ g47) := Lib.hid (by have := Ngp_39.out.lt; omega)
        have HX47_11 : Hid (gq ≠ g47) := Lib.hid (by have := Ngq_39.out.lt; omega)
        have HX47_12 : Hid (ga ≠ g47) := Lib.hid (by have := Nga_39.out.lt; omega)
        have HX47_13 : Hid (gt ≠ g47) := Lib.hid (by have := Ngt_39.out.lt; omega)
        have HX47_14 : Hid (gf ≠ g47) := Lib.hid (by have := Ngf_39.out.lt; omega)
        have Ngp_47 := Lib.hid (Ngp_39.out.keep hb47)
        have Ngq_47 := Lib.hid (Ngq_39.out.keep hb47)
        have Nga_47 := Lib.hid (Nga_39.out.keep hb47)
        have Ngt_47 := Lib.hid (Ngt_39.out.keep hb47)
        have Ngf_47 := Lib.hid (Ngf_39.out.keep hb47)
        have HF_47 : Hid (Below w.heap.size w W47) := Lib.hid (HF_39.out.trans (hb47.mono HF_39.out.size))
        have HL_47 : Hid (W38.heap.size ≤ W47.heap.size) := Lib.hid (Nat.le_trans HL_39.out hb47.size)
        have RZ47_47 : Hid (RAt W47 g47 [0, 0]) := Lib.hid (zrow (k := 2) hz47)
        clear hb47 hz47 hg47 hW47 HL_39 Ngp_39 Ngq_39 Nga_39 Ngt_39 Ngf_39 HF_39
        simp only [Act.put, List.setIfInBounds_toArray, List.set_cons_zero, List.set_cons_succ]
        refine callW (i := 1) (oi := { dst := some 58, op := Op.call { callee := Callee.value (Operand.func 42), args := #[], argTypes := #[] }, type := 35, pos := "law.go:126", after := #[], guard := none }) rfl (by kernel_rfl) (by rfl) (exec_callL 42 [] #[] rfl [] rfl (CG42 _)) ((C10.out W47).mono ?_)
        rintro e48 W48 ⟨rfl, hb48⟩
        refine ⟨_, rfl, fun _ => hb48.mono HL_47.out, ?_⟩
        have Ngp_48 := Lib.hid (Ngp_47.out.keep hb48)
        have Ngq_48 := Lib.hid (Ngq_47.out.keep hb48)
        have Nga_48 := Lib.hid (Nga_47.out.keep hb48)
        have Ngt_48 := Lib.hid (Ngt_47.out.keep hb48)
        have Ngf_48 := Lib.hid (Ngf_47.out.keep hb48)
        have RZ47_48 := Lib.hid (RZ47_47.out.keep hb48)
        have HF_48 : Hid (Below w.heap.size w W48) := Lib.hid (HF_47.out.trans (hb48.mono HF_47.out.size))
        have HL_48 : Hid (W38.heap.size ≤ W48.heap.size) := Lib.hid (Nat.le_trans HL_47.out hb48.size)
        clear hb48 HL_47 Ngp_47 Ngq_47 Nga_47 Ngt_47 Ngf_47 RZ47_47 HF_47
        simp only [Act.put, List.setIfInBounds_toArray, List.set_cons_zero, List.set_cons_succ]
        refine callW (i := 2) (oi := { dst := some 59, op := Op.call { callee := Callee.value (Operand.func 41), args := #[Operand.tmp 57, Operand.tmp 58], argTypes := #[23, 35] }, type := 35, pos := "law.go:126", after := #[{ on := 0, ground := Ground.data }, { on := 1, ground := Ground.data }, { on := 1, ground := Ground.chain }], guard := none }) rfl (by kernel_rfl) (by rfl) (exec_callL 41 [.tmp 57, .tmp 58] #[23, 35] rfl [vN a, vR [gx, gy]] rfl (CG41 _)) ((C11.out W48).mono ?_)
        rintro e49 W49 ⟨rfl, hb49⟩
        refine ⟨_, rfl, fun _ => hb49.mono HL_48.out, ?_⟩
        have Ngp_49 := Lib.hid (Ngp_48.out.keep hb49)
        have Ngq_49 := Lib.hid (Ngq_48.out.keep hb49)
        have Nga_49 := Lib.hid (Nga_48.out.keep hb49)
        have Ngt_49 := Lib.hid (Ngt_48.out.keep hb49)
        have Ngf_49 := Lib.hid (Ngf_48.out.keep hb49)
        have RZ47_49 := Lib.hid (RZ47_48.out.keep hb49)
        have HF_49 : Hid (Below w.heap.size w W49) := Lib.hid (HF_48.out.trans (hb49.mono HF_48.out.size))
        have HL_49 : Hid (W38.heap.size ≤ W49.heap.size) := Lib.hid (Nat.le_trans HL_48.out hb49.size)
        clear hb49 HL_48 Ngp_48 Ngq_48 Nga_48 Ngt_48 Ngf_48 RZ47_48 HF_48
        simp only [Act.put, List.setIfInBounds_toArray, List.set_cons_zero, List.set_cons_succ]
        refine storeW_P (i := 4) (oi := { dst := none, op := Op.store 35 (Operand.tmp 9) (Operand.tmp 59), type := 0, pos := "law.go:126", after := #[{ on := 3, ground := Ground.data }, { on := 2, ground := Ground.data }, { on := 2, ground := Ground.chain }, { on := 0, ground := Ground.phase }, { on := 1, ground := Ground.phase }, { on := 2, ground := Ground.phase }, { on := 3, ground := Ground.phase }], guard := none }) rfl (by kernel_rfl) (by rfl) (.tmp 9) (.tmp 59) rfl (g47) [0, 0] bx by_ rfl rfl RZ47_49.out rfl rfl ?_
        intro W50 hr50 hg50 hz50
        simp only [Act.put, List.setIfInBounds_toArray, List.set_cons_zero, List.set_cons_succ]
        have Ngp_50 := Lib.hid (Ngp_49.out.grown hg50 (by have := HX47_10.out; simp; omega))
        have Ngq_50 := Lib.hid (Ngq_49.out.grown hg50 (by have := HX47_11.out; simp; omega))
        have Nga_50 := Lib.hid (Nga_49.out.grown hg50 (by have := HX47_12.out; simp; omega))
        have Ngt_50 := Lib.hid (Ngt_49.out.grown hg50 (by have := HX47_13.out; simp; omega))
        have Ngf_50 := Lib.hid (Ngf_49.out.grown hg50 (by have := HX47_14.out; simp; omega))
        have RZ47_50 : Hid (RAt W50 g47 [bx, by_]) := Lib.hid hr50
        have HF_50 : Hid (Below w.heap.size w W50) := Lib.hid (HF_49.out.grown hg50 HF_49.out.size (fun r hr => by injection hr with hr; have := (show w.heap.size ≤ g47 from (by have := HG47.out; have := HLO39.out; omega)); omega))
        have HL_50 : Hid (W38.heap.size ≤ W50.heap.size) := Lib.hid (Nat.le_trans HL_49.out hg50.size)
        clear hr50 hg50 hz50 HL_49 Ngp_49 Ngq_49 Nga_49 Ngt_49 Ngf_49 RZ47_49 HF_49
        refine doneW (by kernel_rfl) ⟨rfl, ?_⟩ _
        exact ⟨g47, Ngp_50.out, Ngq_50.out, Nga_50.out, Ngt_50.out, Ngf_50.out, RZ47_50.out, HG47.out, HF_50.out, rfl⟩
    rintro a' v51 ⟨a39_0, h0, h1, h2, h3, h4, h5, k0, hF, rfl⟩
    have Ngp_51 := Lib.hid h0
    have Ngq_51 := Lib.hid h1
    have Nga_51 := Lib.hid h2
    have Ngt_51 := Lib.hid h3
    have Ngf_51 := Lib.hid h4
    have Na39_0_51 := Lib.hid h5
    have HNE51_10 : Hid (w.heap.size ≠ a39_0) := Lib.hid (by have := HLT39_0.out; omega)
    have HNE51_11 : Hid (gq ≠ a39_0) := Lib.hid (by have := HLT39_1.out; omega)
    have HNE51_12 : Hid (ga ≠ a39_0) := Lib.hid (by have := HLT39_2.out; omega)
    have HNE51_13 : Hid (gt ≠ a39_0) := Lib.hid (by have := HLT39_3.out; omega)
    have HNE51_14 : Hid (gf ≠ a39_0) := Lib.hid (by have := HLT39_4.out; omega)
    have HGE51_0 : Hid (w.heap.size ≤ a39_0) := Lib.hid (by have := HLO39.out; omega)
    have HF_51 := Lib.hid hF
    clear h0 h1 h2 h3 h4 h5 k0 hF HLT39_0 HLT39_1 HLT39_2 HLT39_3 HLT39_4 HLO39 Ngp_38 Ngq_38 Nga_38 Ngt_38 Ngf_38 HF_38
    go_wp2_with (first | ((with_reducible show wpList _ _ _ (⟨some 61, .slice 23 (.tmp 5) none none none, _, _, _, _⟩ :: _) _ _); go_must (refine wpList_exec rfl (.slice (some ⟨ga, 0, none⟩) 32 32) (exec_slice23 (.tmp 5) rfl _ rfl) ?_)) | fail)
    refine (CR.out _ _ Nga_51.out).mono ?_
    rintro e52 x52 ⟨rfl, hb52⟩
    have Ngp_52 := Lib.hid (Ngp_51.out.keep hb52)
    have Ngq_52 := Lib.hid (Ngq_51.out.keep hb52)
    have Nga_52 := Lib.hid (Nga_51.out.keep hb52)
    have Ngt_52 := Lib.hid (Ngt_51.out.keep hb52)
    have Ngf_52 := Lib.hid (Ngf_51.out.keep hb52)
    have Na39_0_52 := Lib.hid (Na39_0_51.out.keep hb52)
    have HF_52 : Hid (Below w.heap.size w x52) := Lib.hid (HF_51.out.trans (hb52.mono HF_51.out.size))
    clear hb52 Ngp_51 Ngq_51 Nga_51 Ngt_51 Ngf_51 Na39_0_51 HF_51
    go_wp2_with (first | ((with_reducible show wpList _ _ _ (⟨some 10, .alloc 23, _, _, _, _⟩ :: _) _ _); go_must (refine wpList_alloc_row rfl 23 rfl (.agg (zbs 32)) zero23 ?_; intro u53 ha53 hza53 hga53; have HA53 := Lib.hid ha53; have HZA53 := Lib.hid hza53; have HGA53 := Lib.hid hga53; clear ha53 hza53 hga53)) | ((with_reducible show wpList _ _ _ (⟨none, .store 23 (.tmp 10) (.tmp 63), _, _, _, _⟩ :: _) _ _); go_must (refine wpList_storeF rfl (.tmp 10) (.tmp 63) rfl (x52.heap.size) 0 0 rfl [0] r rfl rfl (zrow (k := 1) HA53.out) (show 0 < 1 by omega) ?_; intro y53 hr53 hg53 hz53; have Ngp_53 := Lib.hid ((Ngp_52.out.grown HGA53.out (by simp)).grown hg53 (by have := Ngp_52.out.lt; simp; omega)); have Ngq_53 := Lib.hid ((Ngq_52.out.grown HGA53.out (by simp)).grown hg53 (by have := Ngq_52.out.lt; simp; omega)); have Nga_53 := Lib.hid ((Nga_52.out.grown HGA53.out (by simp)).grown hg53 (by have := Nga_52.out.lt; simp; omega)); have Ngt_53 := Lib.hid ((Ngt_52.out.grown HGA53.out (by simp)).grown hg53 (by have := Ngt_52.out.lt; simp; omega)); have Ngf_53 := Lib.hid ((Ngf_52.out.grown HGA53.out (by simp)).grown hg53 (by have := Ngf_52.out.lt; simp; omega)); have Na39_0_53 := Lib.hid ((Na39_0_52.out.grown HGA53.out (by simp)).grown hg53 (by have := Na39_0_52.out.lt; simp; omega)); have Ngz_53 : Hid (RAt y53 x52.heap.size [r]) := Lib.hid hr53; have HF_53 : Hid (Below w.heap.size w y53) := Lib.hid ((HF_52.out.grown HGA53.out HF_52.out.size (by simp)).grown hg53 (by have := HF_52.out.size; have := HZA53.out; omega) (fun r hr => by injection hr with hr; have := HF_52.out.size; omega)); have HNE53_15 : Hid (w.heap.size ≠ x52.heap.size) := Lib.hid (by have := Ngp_52.out.lt; omega); have HNE53_16 : Hid (gq ≠ x52.heap.size) := Lib.hid (by have := Ngq_52.out.lt; omega); have HNE53_17 : Hid (ga ≠ x52.heap.size) := Lib.hid (by have := Nga_52.out.lt; omega); have HNE53_18 : Hid (gt ≠ x52.heap.size) := Lib.hid (by have := Ngt_52.out.lt; omega); have HNE53_19 : Hid (gf ≠ x52.heap.size) := Lib.hid (by have := Ngf_52.out.lt; omega); have HNE53_20 : Hid (a39_0 ≠ x52.heap.size) := Lib.hid (by have := Na39_0_52.out.lt; omega); have HGE53 : Hid (w.heap.size ≤ x52.heap.size) := Lib.hid HF_52.out.size; clear hr53 hg53 hz53 HA53 HZA53 HGA53 Ngp_52 Ngq_52 Nga_52 Ngt_52 Ngf_52 Na39_0_52 HF_52)) | fail)
    generalize x52.heap.size = gz at *
    refine region_wq2 (by kernel_rfl) (by kernel_rfl) (by kernel_rfl) ?_
    refine wq_move rfl (.tmp 11) rfl (.int .i64 0) rfl ?_
    simp only [Act.put, List.setIfInBounds_toArray, List.set_cons_zero, List.set_cons_succ]
    refine wq_bin (P := Try.prog) rfl .eql 36 36 (.tmp 65) (.const (.int .i64 0)) rfl (.int .i64 0) (.int .i64 0) (.bool true) rfl rfl (fun _ => rfl) (run_eq36 0 0 true rfl) ?_
    simp only [Act.put, List.setIfInBounds_toArray, List.set_cons_zero, List.set_cons_succ]
    refine wq_move rfl (.tmp 66) rfl (.bool true) rfl ?_
    simp only [Act.put, List.setIfInBounds_toArray, List.set_cons_zero, List.set_cons_succ]
    refine wq_loadP rfl (.tmp 9) rfl (a39_0) bx by_ rfl Na39_0_53.out ?_
    simp only [Act.put, List.setIfInBounds_toArray, List.set_cons_zero, List.set_cons_succ]
    refine wq_call rfl 43 [.tmp 68] #[35] rfl [vR [bx, by_]] rfl (CG43 _) (.bool c) C12.out ?_
    simp only [Act.put, List.setIfInBounds_toArray, List.set_cons_zero, List.set_cons_succ]
    refine wq_loadP rfl (.tmp 9) rfl (a39_0) bx by_ rfl Na39_0_53.out ?_
    simp only [Act.put, List.setIfInBounds_toArray, List.set_cons_zero, List.set_cons_succ]
    refine wq_call rfl 39 [] #[] rfl [] rfl (CG39 _) (vR [0, 1]) C7.out ?_
    simp only [Act.put, List.setIfInBounds_toArray, List.set_cons_zero, List.set_cons_succ]
    refine wq_eqP rfl (.tmp 70) (.tmp 71) rfl bx by_ 0 1 rfl rfl c HB.out ?_
    simp only [Act.put, List.setIfInBounds_toArray, List.set_cons_zero, List.set_cons_succ]
    refine wq_eqb (P := Try.prog) rfl (.tmp 69) (.tmp 72) rfl c c true rfl rfl (beq_self_eq_true _) ?_
    simp only [Act.put, List.setIfInBounds_toArray, List.set_cons_zero, List.set_cons_succ]
    refine wq_pick rfl (.tmp 67) (.tmp 73) (.const (.bool false)) rfl true rfl (.bool true) rfl ?_
    simp only [Act.put, List.setIfInBounds_toArray, List.set_cons_zero, List.set_cons_succ]
    refine wq_move rfl (.tmp 74) rfl (.bool true) rfl ?_
    simp only [Act.put, List.setIfInBounds_toArray, List.set_cons_zero, List.set_cons_succ]
    refine wq_loadP rfl (.tmp 9) rfl (a39_0) bx by_ rfl Na39_0_53.out ?_
    simp only [Act.put, List.setIfInBounds_toArray, List.set_cons_zero, List.set_cons_succ]
    refine wq_call rfl 39 [] #[] rfl [] rfl (CG39 _) (vR [0, 1]) C7.out ?_
    simp only [Act.put, List.setIfInBounds_toArray, List.set_cons_zero, List.set_cons_succ]
    refine wq_eqP rfl (.tmp 76) (.tmp 77) rfl bx by_ 0 1 rfl rfl c HB.out ?_
    simp only [Act.put, List.setIfInBounds_toArray, List.set_cons_zero, List.set_cons_succ]
    refine wq_loadF rfl (.tmp 10) rfl (gz) 0 0 rfl [r] r rfl Ngz_53.out rfl ?_
    simp only [Act.put, List.setIfInBounds_toArray, List.set_cons_zero, List.set_cons_succ]
    as_aux_lemma =>
      refine wq_zero rfl rfl ?_
      simp only [Act.put, List.setIfInBounds_toArray, List.set_cons_zero, List.set_cons_succ]
      refine wq_eq rfl (.tmp 79) (.tmp 80) rfl r 0 rfl rfl c HR.out ?_
      simp only [Act.put, List.setIfInBounds_toArray, List.set_cons_zero, List.set_cons_succ]
      refine wq_eqb (P := Try.prog) rfl (.tmp 78) (.tmp 81) rfl c c true rfl rfl (beq_self_eq_true _) ?_
      simp only [Act.put, List.setIfInBounds_toArray, List.set_cons_zero, List.set_cons_succ]
      refine wq_pick rfl (.tmp 75) (.tmp 82) (.const (.bool false)) rfl true rfl (.bool true) rfl ?_
      simp only [Act.put, List.setIfInBounds_toArray, List.set_cons_zero, List.set_cons_succ]
      refine wq_assign rfl (.tmp 83) rfl (.bool true) rfl ?_
      simp only [Act.put, List.setIfInBounds_toArray, List.set_cons_zero, List.set_cons_succ]
      refine wq_nil ?_
      intro W54 hb54
      have HBW : Hid (Below w.heap.size w W54) := Lib.hid (HF_53.out.trans (hb54.mono HF_53.out.size))
      go_wp2
      go_ret
      exact ⟨rfl, HBW.out⟩

set_option maxHeartbeats 8000000 in
set_option maxRecDepth 100000 in
theorem smalls_bad1 (a px py qx qy : Nat) (w : World) (C0 : Hid (∀ w, Calls Try.prog 38 #[] w (Gives (.bool true) w))) (D0 : Hid (∀ w, Calls Try.prog 40 #[vR [px, py]] w (Gives (.int .i64 2) w))) :
    Calls Try.prog 9 #[vR [px, py], vR [qx, qy], vN a] w (Gives (.bool true) w) := by
  have HF_0 : Hid (Below w.heap.size w w) := Lib.hid (Below.refl _ _)
  go_enter Try.func9, Try.ntmps9
  go_wp2_with (first | ((with_reducible show wpList _ _ _ (⟨some 3, .box 35 (.tmp 0), _, _, _, _⟩ :: _) _ _); go_must (refine wpList_box_row rfl 35 (.tmp 0) rfl (bcs (encs [px, py])).toArray rfl ?_; intro u55 ha55 hza55 hga55; have Ngp_55 : Hid (RAt u55 w.heap.size [px, py]) := Lib.hid (⟨_, ha55⟩); have HF_55 : Hid (Below w.heap.size w u55) := Lib.hid (HF_0.out.grown hga55 HF_0.out.size (by simp)); have HGE55 : Hid (w.heap.size ≤ w.heap.size) := Lib.hid HF_0.out.size; clear ha55 hza55 hga55 HF_0)) | ((with_reducible show wpList _ _ _ (⟨some 4, .box 35 (.tmp 1), _, _, _, _⟩ :: _) _ _); go_must (refine wpList_box_row rfl 35 (.tmp 1) rfl (bcs (encs [qx, qy])).toArray rfl ?_; intro u56 ha56 hza56 hga56; have Ngp_56 := Lib.hid (Ngp_55.out.grown hga56 (by simp)); have Ngq_56 : Hid (RAt u56 u55.heap.size [qx, qy]) := Lib.hid (⟨_, ha56⟩); have HF_56 : Hid (Below w.heap.size w u56) := Lib.hid (HF_55.out.grown hga56 HF_55.out.size (by simp)); have HNE56_0 : Hid (w.heap.size ≠ u55.heap.size) := Lib.hid (by have := Ngp_55.out.lt; omega); have HGE56 : Hid (w.heap.size ≤ u55.heap.size) := Lib.hid HF_55.out.size; clear ha56 hza56 hga56 Ngp_55 HF_55)) | ((with_reducible show wpList _ _ _ (⟨some 5, .box 23 (.tmp 2), _, _, _, _⟩ :: _) _ _); go_must (refine wpList_box_row rfl 23 (.tmp 2) rfl (bcs (enc a)).toArray rfl ?_; intro u57 ha57 hza57 hga57; have Ngp_57 := Lib.hid (Ngp_56.out.grown hga57 (by simp)); have Ngq_57 := Lib.hid (Ngq_56.out.grown hga57 (by simp)); have Nga_57 : Hid (RAt u57 u56.heap.size [a]) := Lib.hid (NAt.row ⟨_, ha57⟩); have HF_57 : Hid (Below w.heap.size w u57) := Lib.hid (HF_56.out.grown hga57 HF_56.out.size (by simp)); have HNE57_1 : Hid (w.heap.size ≠ u56.heap.size) := Lib.hid (by have := Ngp_56.out.lt; omega); have HNE57_2 : Hid (u55.heap.size ≠ u56.heap.size) := Lib.hid (by have := Ngq_56.out.lt; omega); have HGE57 : Hid (w.heap.size ≤ u56.heap.size) := Lib.hid HF_56.out.size; clear ha57 hza57 hga57 Ngp_56 Ngq_56 HF_56)) | fail)
  generalize u55.heap.size = gq at *
  generalize u56.heap.size = ga at *
  refine (C0.out _).mono ?_
  rintro e58 x58 ⟨rfl, hb58⟩
  have Ngp_58 := Lib.hid (Ngp_57.out.keep hb58)
  have Ngq_58 := Lib.hid (Ngq_57.out.keep hb58)
  have Nga_58 := Lib.hid (Nga_57.out.keep hb58)
  have HF_58 : Hid (Below w.heap.size w x58) := Lib.hid (HF_57.out.trans (hb58.mono HF_57.out.size))
  clear hb58 Ngp_57 Ngq_57 Nga_57 HF_57
  go_wp2_with (first | ((with_reducible show wpList _ _ _ (⟨_, .load 35 (.tmp 3), _, _, _, _⟩ :: _) _ _); go_must (refine wpList_exec rfl (vR [px, py]) (exec_loadP (.tmp 3) rfl (w.heap.size) px py rfl Ngp_58.out) ?_)) | fail)
  refine (D0.out _).mono ?_
  rintro e59 x59 ⟨rfl, hb59⟩
  have Ngp_59 := Lib.hid (Ngp_58.out.keep hb59)
  have Ngq_59 := Lib.hid (Ngq_58.out.keep hb59)
  have Nga_59 := Lib.hid (Nga_58.out.keep hb59)
  have HF_59 : Hid (Below w.heap.size w x59) := Lib.hid (HF_58.out.trans (hb59.mono HF_58.out.size))
  clear hb59 Ngp_58 Ngq_58 Nga_58 HF_58
  go_wp2
  go_ret
  exact ⟨rfl, HF_59.out⟩

set_option maxHeartbeats 8000000 in
set_option maxRecDepth 100000 in
theorem smalls_bad2 (a px py qx qy : Nat) (w : World) (C0 : Hid (∀ w, Calls Try.prog 38 #[] w (Gives (.bool true) w))) (D0 : Hid (∀ w, Calls Try.prog 40 #[vR [px, py]] w (Gives (.int .i64 0) w))) (D1 : Hid (∀ w, Calls Try.prog 40 #[vR [qx, qy]] w (Gives (.int .i64 2) w))) :
    Calls Try.prog 9 #[vR [px, py], vR [qx, qy], vN a] w (Gives (.bool true) w) := by
  have HF_0 : Hid (Below w.heap.size w w) := Lib.hid (Below.refl _ _)
  go_enter Try.func9, Try.ntmps9
  go_wp2_with (first | ((with_reducible show wpList _ _ _ (⟨some 3, .box 35 (.tmp 0), _, _, _, _⟩ :: _) _ _); go_must (refine wpList_box_row rfl 35 (.tmp 0) rfl (bcs (encs [px, py])).toArray rfl ?_; intro u60 ha60 hza60 hga60; have Ngp_60 : Hid (RAt u60 w.heap.size [px, py]) := Lib.hid (⟨_, ha60⟩); have HF_60 : Hid (Below w.heap.size w u60) := Lib.hid (HF_0.out.grown hga60 HF_0.out.size (by simp)); have HGE60 : Hid (w.heap.size ≤ w.heap.size) := Lib.hid HF_0.out.size; clear ha60 hza60 hga60 HF_0)) | ((with_reducible show wpList _ _ _ (⟨some 4, .box 35 (.tmp 1), _, _, _, _⟩ :: _) _ _); go_must (refine wpList_box_row rfl 35 (.tmp 1) rfl (bcs (encs [qx, qy])).toArray rfl ?_; intro u61 ha61 hza61 hga61; have Ngp_61 := Lib.hid (Ngp_60.out.grown hga61 (by simp)); have Ngq_61 : Hid (RAt u61 u60.heap.size [qx, qy]) := Lib.hid (⟨_, ha61⟩); have HF_61 : Hid (Below w.heap.size w u61) := Lib.hid (HF_60.out.grown hga61 HF_60.out.size (by simp)); have HNE61_0 : Hid (w.heap.size ≠ u60.heap.size) := Lib.hid (by have := Ngp_60.out.lt; omega); have HGE61 : Hid (w.heap.size ≤ u60.heap.size) := Lib.hid HF_60.out.size; clear ha61 hza61 hga61 Ngp_60 HF_60)) | ((with_reducible show wpList _ _ _ (⟨some 5, .box 23 (.tmp 2), _, _, _, _⟩ :: _) _ _); go_must (refine wpList_box_row rfl 23 (.tmp 2) rfl (bcs (enc a)).toArray rfl ?_; intro u62 ha62 hza62 hga62; have Ngp_62 := Lib.hid (Ngp_61.out.grown hga62 (by simp)); have Ngq_62 := Lib.hid (Ngq_61.out.grown hga62 (by simp)); have Nga_62 : Hid (RAt u62 u61.heap.size [a]) := Lib.hid (NAt.row ⟨_, ha62⟩); have HF_62 : Hid (Below w.heap.size w u62) := Lib.hid (HF_61.out.grown hga62 HF_61.out.size (by simp)); have HNE62_1 : Hid (w.heap.size ≠ u61.heap.size) := Lib.hid (by have := Ngp_61.out.lt; omega); have HNE62_2 : Hid (u60.heap.size ≠ u61.heap.size) := Lib.hid (by have := Ngq_61.out.lt; omega); have HGE62 : Hid (w.heap.size ≤ u61.heap.size) := Lib.hid HF_61.out.size; clear ha62 hza62 hga62 Ngp_61 Ngq_61 HF_61)) | fail)
  generalize u60.heap.size = gq at *
  generalize u61.heap.size = ga at *
  refine (C0.out _).mono ?_
  rintro e63 x63 ⟨rfl, hb63⟩
  have Ngp_63 := Lib.hid (Ngp_62.out.keep hb63)
  have Ngq_63 := Lib.hid (Ngq_62.out.keep hb63)
  have Nga_63 := Lib.hid (Nga_62.out.keep hb63)
  have HF_63 : Hid (Below w.heap.size w x63) := Lib.hid (HF_62.out.trans (hb63.mono HF_62.out.size))
  clear hb63 Ngp_62 Ngq_62 Nga_62 HF_62
  go_wp2_with (first | ((with_reducible show wpList _ _ _ (⟨_, .load 35 (.tmp 3), _, _, _, _⟩ :: _) _ _); go_must (refine wpList_exec rfl (vR [px, py]) (exec_loadP (.tmp 3) rfl (w.heap.size) px py rfl Ngp_63.out) ?_)) | fail)
  refine (D0.out _).mono ?_
  rintro e64 x64 ⟨rfl, hb64⟩
  have Ngp_64 := Lib.hid (Ngp_63.out.keep hb64)
  have Ngq_64 := Lib.hid (Ngq_63.out.keep hb64)
  have Nga_64 := Lib.hid (Nga_63.out.keep hb64)
  have HF_64 : Hid (Below w.heap.size w x64) := Lib.hid (HF_63.out.trans (hb64.mono HF_63.out.size))
  clear hb64 Ngp_63 Ngq_63 Nga_63 HF_63
  go_wp2_with (first | ((with_reducible show wpList _ _ _ (⟨_, .load 35 (.tmp 4), _, _, _, _⟩ :: _) _ _); go_must (refine wpList_exec rfl (vR [qx, qy]) (exec_loadP (.tmp 4) rfl (gq) qx qy rfl Ngq_64.out) ?_)) | fail)
  refine (D1.out _).mono ?_
  rintro e65 x65 ⟨rfl, hb65⟩
  have Ngp_65 := Lib.hid (Ngp_64.out.keep hb65)
  have Ngq_65 := Lib.hid (Ngq_64.out.keep hb65)
  have Nga_65 := Lib.hid (Nga_64.out.keep hb65)
  have HF_65 : Hid (Below w.heap.size w x65) := Lib.hid (HF_64.out.trans (hb65.mono HF_64.out.size))
  clear hb65 Ngp_64 Ngq_64 Nga_64 HF_64
  go_wp2
  go_ret
  exact ⟨rfl, HF_65.out⟩

theorem eight (p : EC.Pt) : EC.add (EC.add (EC.add p p) (EC.add p p)) (EC.add (EC.add p p) (EC.add p p)) = EC.sm p 8 := by
  rw [show (8 : Nat) = 2 * (2 * (2 * 1)) from rfl, EC.sm_two, EC.sm_two, EC.sm_two, EC.sm_one]
theorem sm_neg (p : EC.Pt) : ∀ n, EC.sm (EC.neg p) n = EC.neg (EC.sm p n) := by
  intro n
  apply EC.neg_uniq
  rw [← EC.sm_sum, EC.add_neg, EC.sm_zero]
theorem neg_zero_iff (p : EC.Pt) : EC.neg p = EC.zero ↔ p = EC.zero := by
  constructor
  · intro h
    have e := EC.add_neg p
    rw [h, EC.add_zero] at e
    exact e
  · intro h
    have e := EC.add_neg p
    rw [h, EC.zero_add] at e
    rw [h]
    exact e
theorem walkP (p q : EC.Pt) (a : Nat) (ha : a < TT) (w : World) : Calls Try.prog 9 #[vPt p, vPt q, vN a] w (Gives (.bool true) w) := by
  have hL : lN < TT := by unfold lN TT; omega
  have h1L := one_lt_L
  have hR := fun w g h => sRest_any a ha w g h
  have hB : ∀ w, (Op.equalIn 10000 35 (vPt (EC.sm bP a)) (vR [0, 1])).run Try.prog w = .ok (decide (EC.sm (EC.sm bP a) 8 = EC.zero)) w := fun w => by
    rw [← vZ, pEq]
    congr 1
    rw [Bool.eq_iff_iff, decide_eq_true_eq, decide_eq_true_eq]
    exact (sm_small a).symm
  have hZ : ∀ w, (Op.equalIn 10000 23 (vN (a % lN)) (vN 0)).run Try.prog w = .ok (decide (EC.sm (EC.sm bP a) 8 = EC.zero)) w := fun w => by
    rw [eqN _ _ (Nat.lt_trans (Nat.mod_lt _ (by omega)) hL) (by unfold TT; omega)]
    congr 1
    rw [Bool.eq_iff_iff, decide_eq_true_eq, decide_eq_true_eq]
    exact ((sm_small a).trans (sm_zero_iff a)).symm
  have h1 := pSmall p
  have h2 := pSmall (EC.add p q)
  have h3 := pSmall (EC.neg p)
  have hE : ∀ w, (Op.equalIn 10000 35 (vPt (EC.add (EC.add (EC.add p p) (EC.add p p)) (EC.add (EC.add p p) (EC.add p p)))) (vR [0, 1])).run Try.prog w = .ok (decide (EC.sm p 8 = EC.zero)) w := fun w => by
    rw [← vZ, eight]
    exact pEq _ _ w
  have e3 : decide (EC.sm (EC.neg p) 8 = EC.zero) = decide (EC.sm p 8 = EC.zero) := by
    rw [Bool.eq_iff_iff, decide_eq_true_eq, decide_eq_true_eq, sm_neg]
    exact neg_zero_iff _
  rw [e3] at h3
  by_cases hs : EC.sm p 8 = EC.zero
  · have e2 : decide (EC.sm (EC.add p q) 8 = EC.zero) = decide (EC.sm q 8 = EC.zero) := by rw [EC.sm_sum, hs, EC.zero_add]
    rw [e2] at h2
    rw [decide_eq_true hs] at h1 h3 hE
    exact smalls_core_true a _ _ _ _ _ _ _ _ _ _ _ _ _ _ _ _ _ _ _ _ _ w (Lib.hid (clives_any)) (Lib.hid (pCheck p)) (Lib.hid (pCheck q)) (Lib.hid (pAdd p p)) (Lib.hid (pAdd _ _)) (Lib.hid (h1)) (Lib.hid (pAdd _ _)) (Lib.hid (Zero_any)) (Lib.hid (pSmall q)) (Lib.hid (pAdd p q)) (Lib.hid (h2)) (Lib.hid (pNeg p)) (Lib.hid (h3)) (Lib.hid (pBase)) (Lib.hid (pMul a ha bP)) (Lib.hid (pSmall _)) (Lib.hid hR) (Lib.hid hE) (Lib.hid hB) (Lib.hid hZ)
  · rw [decide_eq_false hs] at h1 h3 hE
    exact smalls_core_false a _ _ _ _ _ _ _ _ _ _ _ 0 0 _ _ _ _ _ _ false _ w (Lib.hid (clives_any)) (Lib.hid (pCheck p)) (Lib.hid (pCheck q)) (Lib.hid (pAdd p p)) (Lib.hid (pAdd _ _)) (Lib.hid (h1)) (Lib.hid (pAdd _ _)) (Lib.hid (Zero_any)) (Lib.hid (pNeg p)) (Lib.hid (h3)) (Lib.hid (pBase)) (Lib.hid (pMul a ha bP)) (Lib.hid (pSmall _)) (Lib.hid hR) (Lib.hid hE) (Lib.hid hB) (Lib.hid hZ)
theorem walk (X0 Y0 X1 Y1 : Nat) (z2 : List UInt8) (w : World) (a0 : X0 < TT) (b0 : Y0 < TT) (a1 : X1 < TT) (b1 : Y1 < TT) (w2 : z2.length = 32) :
    Calls Try.prog 9 #[vR [X0, Y0], vR [X1, Y1], .agg (bcs z2).toArray] w fun e w' => e = .returned (.bool true) ∧ Below w.heap.size w w' := by
  obtain ⟨a, ha, e2⟩ := bytes_num z2 w2
  rw [e2]
  have h0 := Check_any X0 Y0 a0 b0
  have h1 := Check_any X1 Y1 a1 b1
  rcases chk_two X0 Y0 with c0 | c0
  · rcases chk_two X1 Y1 with c1 | c1
    · obtain ⟨p, e0, _⟩ := chk_zero _ _ c0
      obtain ⟨q, e1, _⟩ := chk_zero _ _ c1
      rw [e0, e1]
      exact walkP p q a ha w
    · rw [c0] at h0
      rw [c1] at h1
      exact smalls_bad2 _ _ _ _ _ w (Lib.hid clives_any) (Lib.hid h0) (Lib.hid h1)
  · rw [c0] at h0
    exact smalls_bad1 _ _ _ _ _ w (Lib.hid clives_any) (Lib.hid h0)

set_option maxRecDepth 100000 in
theorem lifted (os : Os) (started : os.Started) (H : Type) (enc : TypeId × Value → H) :
    ReturnsInHanded {} Try.checked os 9 .any (Rows.curveSmallsSpec.pre6 enc Try.prog Try.f9 Rows.curveSmallsRow.domain false) (Rows.curveSmallsSpec.post enc Try.prog Try.f9 false true false false) := by
  refine returnsInHanded_of_change (C := Try.checked) own started (by kernel_rfl) Try.func9
    (ChangeSpec.witness6 (enc := enc) (C := Try.checked) false ⟨#[], #[.agg (Array.replicate 64 (.int .u8 0)), .agg (Array.replicate 64 (.int .u8 0)), .agg (Array.replicate 32 (.int .u8 0))], []⟩ 8 (by kernel_rfl) (by kernel_rfl) (by kernel_rfl) (by kernel_rfl)) ?_
  intro W base args ds gs before hval0 hW hcnd _
  have hval : ∀ (j : Nat) t v, Try.f9.params[j]? = some t → args[j]? = some v → Value.okWide Try.prog W .any base t v := hval0
  have hW' := hW
  obtain ⟨p, q, hA0, hV, rfl, hfz, hnd⟩ := hW
  have hA : DataW.TrodAll enc Try.prog W 0 (fun _ => true) true Try.f9.params.toList args.toList ds p := hA0
  rw [Try.params9] at hA hval
  obtain ⟨v0, vs0, d0, ds0, p0, q0, hargs, rfl, rfl, h0, r0⟩ := trodAll_cons hA
  obtain ⟨v1, vs1, d1, ds1, p1, q1, rfl, rfl, rfl, h1, r1⟩ := trodAll_cons r0
  obtain ⟨v2, vs2, d2, ds2, p2, q2, rfl, rfl, rfl, h2, r2⟩ := trodAll_cons r1
  obtain ⟨rfl, rfl, rfl⟩ := trodAll_nil r2
  obtain rfl : args = #[v0, v1, v2] := by cases args; simp_all
  obtain ⟨rfl, rfl⟩ := trodVars_none hV
  have k0 := h0
  have lt0 : ∀ x ∈ p0, x.block < W.heap.size := by obtain ⟨m, hm⟩ := k0; exact DataW.trod_lt m _ _ _ hm
  obtain ⟨X0, Y0, wX0, wY0, rfl⟩ := open_pt (hval 0 35 v0 rfl rfl) h0
  have k1 := h1
  have lt1 : ∀ x ∈ p1, x.block < W.heap.size := by obtain ⟨m, hm⟩ := k1; exact DataW.trod_lt m _ _ _ hm
  obtain ⟨X1, Y1, wX1, wY1, rfl⟩ := open_pt (hval 1 35 v1 rfl rfl) h1
  have k2 := h2
  have lt2 : ∀ x ∈ p2, x.block < W.heap.size := by obtain ⟨m, hm⟩ := k2; exact DataW.trod_lt m _ _ _ hm
  obtain ⟨z2, w2, rfl⟩ := open_arr Try.underlying23 Try.underlying5 (by kernel_rfl) (by kernel_rfl) (hval 2 23 v2 rfl rfl) h2
  clear hA0 hval0
  refine (walk X0 Y0 X1 Y1 z2 W wX0 wY0 wX1 wY1 w2).mono fun e W' ⟨he, bel⟩ => ?_
  subst he
  exact ⟨_, rfl, _, _, _, [], _, [], hW', trodAll_mk1 (shut_bool Try.underlying4 _), (trodAll_cons_mk (Below.trod laidOut (by kernel_rfl) (of_decide_eq_true (by kernel_rfl)) k0 bel lt0) (trodAll_cons_mk (Below.trod laidOut (by kernel_rfl) (of_decide_eq_true (by kernel_rfl)) k1 bel lt1) (trodAll_cons_mk (Below.trod laidOut (by kernel_rfl) (of_decide_eq_true (by kernel_rfl)) k2 bel lt2) trodAll_mk0))), rfl, bel.frame _, fun h => by cases h⟩

theorem over : Rows.curveSmallsRow.holds Try.pinned (OpenSpec.ofChange Rows.curveSmallsSpec) :=
  OpenClaim.holds_of_wide 9 Try.f9 rfl rfl rfl rfl rfl rfl rfl ⟨rfl, rfl, rfl, rfl, rfl⟩ rfl rfl rfl rfl rfl (by kernel_rfl) Try.func9 (by kernel_rfl)
    (of_decide_eq_true (by kernel_rfl)) (by unfold Func.isWrapper; first | (rw [if_pos (by decide +kernel)]; kernel_rfl) | (rw [if_neg (by decide +kernel)]; exact ⟨rfl, rfl⟩))
    (fun os started H enc _ => lifted os started H enc)

/-- The statement. -/
theorem proved : Rows.CurveSmallsSaid := over
#print axioms proved
end Go.Proofs.Ytgdimnbdnepbgaa.curveSmalls
