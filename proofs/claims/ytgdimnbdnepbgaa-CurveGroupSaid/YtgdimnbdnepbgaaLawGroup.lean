/- It is proved that CurveGroup returns true for any three points, valid or not: points are a group. Conditions: none. -/
import Derived.Test.YtgdimnbdnepbgaaRows
import Derived.Test.YtgdimnbdnepbgaaEN
import Derived.ProofKit
import Derived.OpenShut
import Derived.ChangeOld
namespace Go.Proofs.Ytgdimnbdnepbgaa.curveGroup
open Go.ChangeShapes Go.WideShapes Go.ChangeAt Go.RowKit
set_option linter.unusedVariables false
set_option linter.unusedSimpArgs false

theorem own : ownKnob Try.prog.godebug = none := by kernel_rfl
theorem laidOut : laidOutB Try.prog = true := by kernel_rfl

set_option maxHeartbeats 8000000 in
set_option maxRecDepth 100000 in
theorem group_core (px py qx qy rx ry sx sy nx ny tx ty ux uy mx my kx ky : Nat) (b : Bool) (w : World)
    (C0 : Hid (∀ w, Calls Try.prog 38 #[] w (Gives (.bool true) w)))
    (C1 : Hid (∀ w, Calls Try.prog 40 #[vR [px, py]] w (Gives (.int .i64 0) w)))
    (C2 : Hid (∀ w, Calls Try.prog 40 #[vR [qx, qy]] w (Gives (.int .i64 0) w)))
    (C3 : Hid (∀ w, Calls Try.prog 40 #[vR [rx, ry]] w (Gives (.int .i64 0) w)))
    (C4 : Hid (∀ w, Calls Try.prog 44 #[vR [px, py], vR [qx, qy]] w (Gives (vR [sx, sy]) w)))
    (C5 : Hid (∀ w, Calls Try.prog 51 #[vR [px, py]] w (Gives (vR [nx, ny]) w)))
    (C6 : Hid (∀ w, Calls Try.prog 40 #[vR [sx, sy]] w (Gives (.int .i64 0) w)))
    (C7 : Hid (∀ w, Calls Try.prog 44 #[vR [qx, qy], vR [px, py]] w (Gives (vR [sx, sy]) w)))
    (C8 : Hid (∀ w, Calls Try.prog 44 #[vR [sx, sy], vR [rx, ry]] w (Gives (vR [tx, ty]) w)))
    (C9 : Hid (∀ w, Calls Try.prog 44 #[vR [qx, qy], vR [rx, ry]] w (Gives (vR [ux, uy]) w)))
    (C10 : Hid (∀ w, Calls Try.prog 44 #[vR [px, py], vR [ux, uy]] w (Gives (vR [tx, ty]) w)))
    (C11 : Hid (∀ w, Calls Try.prog 39 #[] w (Gives (vR [0, 1]) w)))
    (C12 : Hid (∀ w, Calls Try.prog 44 #[vR [px, py], vR [0, 1]] w (Gives (vR [px, py]) w)))
    (C13 : Hid (∀ w, Calls Try.prog 40 #[vR [nx, ny]] w (Gives (.int .i64 0) w)))
    (C14 : Hid (∀ w, Calls Try.prog 44 #[vR [px, py], vR [nx, ny]] w (Gives (vR [0, 1]) w)))
    (C15 : Hid (∀ w, Calls Try.prog 44 #[vR [sx, sy], vR [nx, ny]] w (Gives (vR [qx, qy]) w)))
    (C16 : Hid (∀ w, Calls Try.prog 51 #[vR [sx, sy]] w (Gives (vR [mx, my]) w)))
    (C17 : Hid (∀ w, Calls Try.prog 51 #[vR [qx, qy]] w (Gives (vR [kx, ky]) w)))
    (C18 : Hid (∀ w, Calls Try.prog 44 #[vR [nx, ny], vR [kx, ky]] w (Gives (vR [mx, my]) w)))
    (HE1 : Hid (∀ w, (Op.equalIn 10000 35 (vR [sx, sy]) (vR [0, 1])).run Try.prog w = .ok b w)) (HE2 : Hid (∀ w, (Op.equalIn 10000 35 (vR [qx, qy]) (vR [nx, ny])).run Try.prog w = .ok b w)) :
    Calls Try.prog 6 #[vR [px, py], vR [qx, qy], vR [rx, ry]] w (Gives (.bool true) w) := by
  have HF_0 : Hid (Below w.heap.size w w) := Lib.hid (Below.refl _ _)
  go_enter Try.func6, Try.ntmps6
  go_wp2_with (first | ((with_reducible show wpList _ _ _ (⟨some 3, .box 35 (.tmp 0), _, _, _, _⟩ :: _) _ _); go_must (refine wpList_box_row rfl 35 (.tmp 0) rfl (bcs (encs [px, py])).toArray rfl ?_; intro u1 ha1 hza1 hga1; have Ngp_1 : Hid (RAt u1 w.heap.size [px, py]) := Lib.hid (⟨_, ha1⟩); have HF_1 : Hid (Below w.heap.size w u1) := Lib.hid (HF_0.out.grown hga1 HF_0.out.size (by simp)); have HGE1 : Hid (w.heap.size ≤ w.heap.size) := Lib.hid HF_0.out.size; clear ha1 hza1 hga1 HF_0)) | ((with_reducible show wpList _ _ _ (⟨some 4, .box 35 (.tmp 1), _, _, _, _⟩ :: _) _ _); go_must (refine wpList_box_row rfl 35 (.tmp 1) rfl (bcs (encs [qx, qy])).toArray rfl ?_; intro u2 ha2 hza2 hga2; have Ngp_2 := Lib.hid (Ngp_1.out.grown hga2 (by simp)); have Ngq_2 : Hid (RAt u2 u1.heap.size [qx, qy]) := Lib.hid (⟨_, ha2⟩); have HF_2 : Hid (Below w.heap.size w u2) := Lib.hid (HF_1.out.grown hga2 HF_1.out.size (by simp)); have HNE2_0 : Hid (w.heap.size ≠ u1.heap.size) := Lib.hid (by have := Ngp_1.out.lt; omega); have HGE2 : Hid (w.heap.size ≤ u1.heap.size) := Lib.hid HF_1.out.size; clear ha2 hza2 hga2 Ngp_1 HF_1)) | ((with_reducible show wpList _ _ _ (⟨some 5, .box 35 (.tmp 2), _, _, _, _⟩ :: _) _ _); go_must (refine wpList_box_row rfl 35 (.tmp 2) rfl (bcs (encs [rx, ry])).toArray rfl ?_; intro u3 ha3 hza3 hga3; have Ngp_3 := Lib.hid (Ngp_2.out.grown hga3 (by simp)); have Ngq_3 := Lib.hid (Ngq_2.out.grown hga3 (by simp)); have Ngr_3 : Hid (RAt u3 u2.heap.size [rx, ry]) := Lib.hid (⟨_, ha3⟩); have HF_3 : Hid (Below w.heap.size w u3) := Lib.hid (HF_2.out.grown hga3 HF_2.out.size (by simp)); have HNE3_1 : Hid (w.heap.size ≠ u2.heap.size) := Lib.hid (by have := Ngp_2.out.lt; omega); have HNE3_2 : Hid (u1.heap.size ≠ u2.heap.size) := Lib.hid (by have := Ngq_2.out.lt; omega); have HGE3 : Hid (w.heap.size ≤ u2.heap.size) := Lib.hid HF_2.out.size; clear ha3 hza3 hga3 Ngp_2 Ngq_2 HF_2)) | fail)
  generalize u1.heap.size = gq at *
  generalize u2.heap.size = gr at *
  refine (C0.out _).mono ?_
  rintro e4 x4 ⟨rfl, hb4⟩
  have Ngp_4 := Lib.hid (Ngp_3.out.keep hb4)
  have Ngq_4 := Lib.hid (Ngq_3.out.keep hb4)
  have Ngr_4 := Lib.hid (Ngr_3.out.keep hb4)
  have HF_4 : Hid (Below w.heap.size w x4) := Lib.hid (HF_3.out.trans (hb4.mono HF_3.out.size))
  clear hb4 Ngp_3 Ngq_3 Ngr_3 HF_3
  go_wp2_with (first | ((with_reducible show wpList _ _ _ (⟨_, .load 35 (.tmp 3), _, _, _, _⟩ :: _) _ _); go_must (refine wpList_exec rfl (vR [px, py]) (exec_loadP (.tmp 3) rfl (w.heap.size) px py rfl Ngp_4.out) ?_)) | fail)
  refine (C1.out _).mono ?_
  rintro e5 x5 ⟨rfl, hb5⟩
  have Ngp_5 := Lib.hid (Ngp_4.out.keep hb5)
  have Ngq_5 := Lib.hid (Ngq_4.out.keep hb5)
  have Ngr_5 := Lib.hid (Ngr_4.out.keep hb5)
  have HF_5 : Hid (Below w.heap.size w x5) := Lib.hid (HF_4.out.trans (hb5.mono HF_4.out.size))
  clear hb5 Ngp_4 Ngq_4 Ngr_4 HF_4
  go_wp2_with (first | ((with_reducible show wpList _ _ _ (⟨_, .load 35 (.tmp 4), _, _, _, _⟩ :: _) _ _); go_must (refine wpList_exec rfl (vR [qx, qy]) (exec_loadP (.tmp 4) rfl (gq) qx qy rfl Ngq_5.out) ?_)) | fail)
  refine (C2.out _).mono ?_
  rintro e6 x6 ⟨rfl, hb6⟩
  have Ngp_6 := Lib.hid (Ngp_5.out.keep hb6)
  have Ngq_6 := Lib.hid (Ngq_5.out.keep hb6)
  have Ngr_6 := Lib.hid (Ngr_5.out.keep hb6)
  have HF_6 : Hid (Below w.heap.size w x6) := Lib.hid (HF_5.out.trans (hb6.mono HF_5.out.size))
  clear hb6 Ngp_5 Ngq_5 Ngr_5 HF_5
  go_wp2_with (first | ((with_reducible show wpList _ _ _ (⟨_, .load 35 (.tmp 5), _, _, _, _⟩ :: _) _ _); go_must (refine wpList_exec rfl (vR [rx, ry]) (exec_loadP (.tmp 5) rfl (gr) rx ry rfl Ngr_6.out) ?_)) | fail)
  refine (C3.out _).mono ?_
  rintro e7 x7 ⟨rfl, hb7⟩
  have Ngp_7 := Lib.hid (Ngp_6.out.keep hb7)
  have Ngq_7 := Lib.hid (Ngq_6.out.keep hb7)
  have Ngr_7 := Lib.hid (Ngr_6.out.keep hb7)
  have HF_7 : Hid (Below w.heap.size w x7) := Lib.hid (HF_6.out.trans (hb7.mono HF_6.out.size))
  clear hb7 Ngp_6 Ngq_6 Ngr_6 HF_6
  go_wp2_with (first | ((with_reducible show wpList _ _ _ (⟨_, .load 35 (.tmp 3), _, _, _, _⟩ :: _) _ _); go_must (refine wpList_exec rfl (vR [px, py]) (exec_loadP (.tmp 3) rfl (w.heap.size) px py rfl Ngp_7.out) ?_)) | ((with_reducible show wpList _ _ _ (⟨_, .load 35 (.tmp 4), _, _, _, _⟩ :: _) _ _); go_must (refine wpList_exec rfl (vR [qx, qy]) (exec_loadP (.tmp 4) rfl (gq) qx qy rfl Ngq_7.out) ?_)) | fail)
  refine (C4.out _).mono ?_
  rintro e8 x8 ⟨rfl, hb8⟩
  have Ngp_8 := Lib.hid (Ngp_7.out.keep hb8)
  have Ngq_8 := Lib.hid (Ngq_7.out.keep hb8)
  have Ngr_8 := Lib.hid (Ngr_7.out.keep hb8)
  have HF_8 : Hid (Below w.heap.size w x8) := Lib.hid (HF_7.out.trans (hb8.mono HF_7.out.size))
  clear hb8 Ngp_7 Ngq_7 Ngr_7 HF_7
  go_wp2_with (first | ((with_reducible show wpList _ _ _ (⟨some 7, .alloc 35, _, _, _, _⟩ :: _) _ _); go_must (refine wpList_alloc_row rfl 35 rfl (.agg (zbs 64)) zero35 ?_; intro u9 ha9 hza9 hga9; have HA9 := Lib.hid ha9; have HZA9 := Lib.hid hza9; have HGA9 := Lib.hid hga9; clear ha9 hza9 hga9)) | ((with_reducible show wpList _ _ _ (⟨none, .store 35 (.tmp 7) (.tmp 26), _, _, _, _⟩ :: _) _ _); go_must (refine wpList_storeP rfl (.tmp 7) (.tmp 26) rfl (x8.heap.size) [0, 0] sx sy rfl rfl (zrow (k := 2) HA9.out) rfl ?_; intro y9 hr9 hg9 hz9; have Ngp_9 := Lib.hid ((Ngp_8.out.grown HGA9.out (by simp)).grown hg9 (by have := Ngp_8.out.lt; simp; omega)); have Ngq_9 := Lib.hid ((Ngq_8.out.grown HGA9.out (by simp)).grown hg9 (by have := Ngq_8.out.lt; simp; omega)); have Ngr_9 := Lib.hid ((Ngr_8.out.grown HGA9.out (by simp)).grown hg9 (by have := Ngr_8.out.lt; simp; omega)); have Ngs_9 : Hid (RAt y9 x8.heap.size [sx, sy]) := Lib.hid hr9; have HF_9 : Hid (Below w.heap.size w y9) := Lib.hid ((HF_8.out.grown HGA9.out HF_8.out.size (by simp)).grown hg9 (by have := HF_8.out.size; have := HZA9.out; omega) (fun r hr => by injection hr with hr; have := HF_8.out.size; omega)); have HNE9_3 : Hid (w.heap.size ≠ x8.heap.size) := Lib.hid (by have := Ngp_8.out.lt; omega); have HNE9_4 : Hid (gq ≠ x8.heap.size) := Lib.hid (by have := Ngq_8.out.lt; omega); have HNE9_5 : Hid (gr ≠ x8.heap.size) := Lib.hid (by have := Ngr_8.out.lt; omega); have HGE9 : Hid (w.heap.size ≤ x8.heap.size) := Lib.hid HF_8.out.size; clear hr9 hg9 hz9 HA9 HZA9 HGA9 Ngp_8 Ngq_8 Ngr_8 HF_8)) | ((with_reducible show wpList _ _ _ (⟨_, .load 35 (.tmp 3), _, _, _, _⟩ :: _) _ _); go_must (refine wpList_exec rfl (vR [px, py]) (exec_loadP (.tmp 3) rfl (w.heap.size) px py rfl Ngp_9.out) ?_)) | fail)
  generalize x8.heap.size = gs at *
  refine (C5.out _).mono ?_
  rintro e10 x10 ⟨rfl, hb10⟩
  have Ngp_10 := Lib.hid (Ngp_9.out.keep hb10)
  have Ngq_10 := Lib.hid (Ngq_9.out.keep hb10)
  have Ngr_10 := Lib.hid (Ngr_9.out.keep hb10)
  have Ngs_10 := Lib.hid (Ngs_9.out.keep hb10)
  have HF_10 : Hid (Below w.heap.size w x10) := Lib.hid (HF_9.out.trans (hb10.mono HF_9.out.size))
  clear hb10 Ngp_9 Ngq_9 Ngr_9 Ngs_9 HF_9
  go_wp2_with (first | ((with_reducible show wpList _ _ _ (⟨some 8, .alloc 35, _, _, _, _⟩ :: _) _ _); go_must (refine wpList_alloc_row rfl 35 rfl (.agg (zbs 64)) zero35 ?_; intro u11 ha11 hza11 hga11; have HA11 := Lib.hid ha11; have HZA11 := Lib.hid hza11; have HGA11 := Lib.hid hga11; clear ha11 hza11 hga11)) | ((with_reducible show wpList _ _ _ (⟨none, .store 35 (.tmp 8) (.tmp 28), _, _, _, _⟩ :: _) _ _); go_must (refine wpList_storeP rfl (.tmp 8) (.tmp 28) rfl (x10.heap.size) [0, 0] nx ny rfl rfl (zrow (k := 2) HA11.out) rfl ?_; intro y11 hr11 hg11 hz11; have Ngp_11 := Lib.hid ((Ngp_10.out.grown HGA11.out (by simp)).grown hg11 (by have := Ngp_10.out.lt; simp; omega)); have Ngq_11 := Lib.hid ((Ngq_10.out.grown HGA11.out (by simp)).grown hg11 (by have := Ngq_10.out.lt; simp; omega)); have Ngr_11 := Lib.hid ((Ngr_10.out.grown HGA11.out (by simp)).grown hg11 (by have := Ngr_10.out.lt; simp; omega)); have Ngs_11 := Lib.hid ((Ngs_10.out.grown HGA11.out (by simp)).grown hg11 (by have := Ngs_10.out.lt; simp; omega)); have Ngn_11 : Hid (RAt y11 x10.heap.size [nx, ny]) := Lib.hid hr11; have HF_11 : Hid (Below w.heap.size w y11) := Lib.hid ((HF_10.out.grown HGA11.out HF_10.out.size (by simp)).grown hg11 (by have := HF_10.out.size; have := HZA11.out; omega) (fun r hr => by injection hr with hr; have := HF_10.out.size; omega)); have HNE11_6 : Hid (w.heap.size ≠ x10.heap.size) := Lib.hid (by have := Ngp_10.out.lt; omega); have HNE11_7 : Hid (gq ≠ x10.heap.size) := Lib.hid (by have := Ngq_10.out.lt; omega); have HNE11_8 : Hid (gr ≠ x10.heap.size) := Lib.hid (by have := Ngr_10.out.lt; omega); have HNE11_9 : Hid (gs ≠ x10.heap.size) := Lib.hid (by have := Ngs_10.out.lt; omega); have HGE11 : Hid (w.heap.size ≤ x10.heap.size) := Lib.hid HF_10.out.size; clear hr11 hg11 hz11 HA11 HZA11 HGA11 Ngp_10 Ngq_10 Ngr_10 Ngs_10 HF_10)) | fail)
  generalize x10.heap.size = gn at *
  refine region_wq2 (by kernel_rfl) (by kernel_rfl) (by kernel_rfl) ?_
  refine wq_loadP rfl (.tmp 7) rfl (gs) sx sy rfl Ngs_11.out ?_
  simp only [Act.put, List.setIfInBounds_toArray, List.set_cons_zero, List.set_cons_succ]
  refine wq_call rfl 40 [.tmp 29] #[35] rfl [vR [sx, sy]] rfl (CG40 _) (.int .i64 0) C6.out ?_
  simp only [Act.put, List.setIfInBounds_toArray, List.set_cons_zero, List.set_cons_succ]
  refine wq_bin (P := Try.prog) rfl .eql 36 36 (.tmp 30) (.const (.int .i64 0)) rfl (.int .i64 0) (.int .i64 0) (.bool true) rfl rfl (fun _ => rfl) (run_eq36 0 0 true rfl) ?_
  simp only [Act.put, List.setIfInBounds_toArray, List.set_cons_zero, List.set_cons_succ]
  refine wq_move rfl (.tmp 31) rfl (.bool true) rfl ?_
  simp only [Act.put, List.setIfInBounds_toArray, List.set_cons_zero, List.set_cons_succ]
  refine wq_loadP rfl (.tmp 7) rfl (gs) sx sy rfl Ngs_11.out ?_
  simp only [Act.put, List.setIfInBounds_toArray, List.set_cons_zero, List.set_cons_succ]
  refine wq_loadP rfl (.tmp 4) rfl (gq) qx qy rfl Ngq_11.out ?_
  simp only [Act.put, List.setIfInBounds_toArray, List.set_cons_zero, List.set_cons_succ]
  refine wq_loadP rfl (.tmp 3) rfl (w.heap.size) px py rfl Ngp_11.out ?_
  simp only [Act.put, List.setIfInBounds_toArray, List.set_cons_zero, List.set_cons_succ]
  refine wq_call rfl 44 [.tmp 34, .tmp 35] #[35, 35] rfl [vR [qx, qy], vR [px, py]] rfl (CG44 _) (vR [sx, sy]) C7.out ?_
  simp only [Act.put, List.setIfInBounds_toArray, List.set_cons_zero, List.set_cons_succ]
  refine wq_eqP rfl (.tmp 33) (.tmp 36) rfl sx sy sx sy rfl rfl true (eqP_same _ _) ?_
  simp only [Act.put, List.setIfInBounds_toArray, List.set_cons_zero, List.set_cons_succ]
  refine wq_pick rfl (.tmp 32) (.tmp 37) (.const (.bool false)) rfl true rfl (.bool true) rfl ?_
  simp only [Act.put, List.setIfInBounds_toArray, List.set_cons_zero, List.set_cons_succ]
  refine wq_move rfl (.tmp 38) rfl (.bool true) rfl ?_
  simp only [Act.put, List.setIfInBounds_toArray, List.set_cons_zero, List.set_cons_succ]
  refine wq_loadP rfl (.tmp 7) rfl (gs) sx sy rfl Ngs_11.out ?_
  simp only [Act.put, List.setIfInBounds_toArray, List.set_cons_zero, List.set_cons_succ]
  refine wq_loadP rfl (.tmp 5) rfl (gr) rx ry rfl Ngr_11.out ?_
  simp only [Act.put, List.setIfInBounds_toArray, List.set_cons_zero, List.set_cons_succ]
  refine wq_call rfl 44 [.tmp 40, .tmp 41] #[35, 35] rfl [vR [sx, sy], vR [rx, ry]] rfl (CG44 _) (vR [tx, ty]) C8.out ?_
  simp only [Act.put, List.setIfInBounds_toArray, List.set_cons_zero, List.set_cons_succ]
  refine wq_loadP rfl (.tmp 3) rfl (w.heap.size) px py rfl Ngp_11.out ?_
  simp only [Act.put, List.setIfInBounds_toArray, List.set_cons_zero, List.set_cons_succ]
  refine wq_loadP rfl (.tmp 4) rfl (gq) qx qy rfl Ngq_11.out ?_
  simp only [Act.put, List.setIfInBounds_toArray, List.set_cons_zero, List.set_cons_succ]
  refine wq_loadP rfl (.tmp 5) rfl (gr) rx ry rfl Ngr_11.out ?_
  simp only [Act.put, List.setIfInBounds_toArray, List.set_cons_zero, List.set_cons_succ]
  refine wq_call rfl 44 [.tmp 44, .tmp 45] #[35, 35] rfl [vR [qx, qy], vR [rx, ry]] rfl (CG44 _) (vR [ux, uy]) C9.out ?_
  simp only [Act.put, List.setIfInBounds_toArray, List.set_cons_zero, List.set_cons_succ]
  refine wq_call rfl 44 [.tmp 43, .tmp 46] #[35, 35] rfl [vR [px, py], vR [ux, uy]] rfl (CG44 _) (vR [tx, ty]) C10.out ?_
  simp only [Act.put, List.setIfInBounds_toArray, List.set_cons_zero, List.set_cons_succ]
  refine wq_eqP rfl (.tmp 42) (.tmp 47) rfl tx ty tx ty rfl rfl true (eqP_same _ _) ?_
  simp only [Act.put, List.setIfInBounds_toArray, List.set_cons_zero, List.set_cons_succ]
  refine wq_pick rfl (.tmp 39) (.tmp 48) (.const (.bool false)) rfl true rfl (.bool true) rfl ?_
  simp only [Act.put, List.setIfInBounds_toArray, List.set_cons_zero, List.set_cons_succ]
  refine wq_move rfl (.tmp 49) rfl (.bool true) rfl ?_
  simp only [Act.put, List.setIfInBounds_toArray, List.set_cons_zero, List.set_cons_succ]
  refine wq_loadP rfl (.tmp 3) rfl (w.heap.size) px py rfl Ngp_11.out ?_
  simp only [Act.put, List.setIfInBounds_toArray, List.set_cons_zero, List.set_cons_succ]
  refine wq_call rfl 39 [] #[] rfl [] rfl (CG39 _) (vR [0, 1]) C11.out ?_
  simp only [Act.put, List.setIfInBounds_toArray, List.set_cons_zero, List.set_cons_succ]
  refine wq_call rfl 44 [.tmp 51, .tmp 52] #[35, 35] rfl [vR [px, py], vR [0, 1]] rfl (CG44 _) (vR [px, py]) C12.out ?_
  simp only [Act.put, List.setIfInBounds_toArray, List.set_cons_zero, List.set_cons_succ]
  as_aux_lemma =>
    refine wq_loadP rfl (.tmp 3) rfl (w.heap.size) px py rfl Ngp_11.out ?_
    simp only [Act.put, List.setIfInBounds_toArray, List.set_cons_zero, List.set_cons_succ]
    refine wq_eqP rfl (.tmp 53) (.tmp 54) rfl px py px py rfl rfl true (eqP_same _ _) ?_
    simp only [Act.put, List.setIfInBounds_toArray, List.set_cons_zero, List.set_cons_succ]
    refine wq_pick rfl (.tmp 50) (.tmp 55) (.const (.bool false)) rfl true rfl (.bool true) rfl ?_
    simp only [Act.put, List.setIfInBounds_toArray, List.set_cons_zero, List.set_cons_succ]
    refine wq_move rfl (.tmp 56) rfl (.bool true) rfl ?_
    simp only [Act.put, List.setIfInBounds_toArray, List.set_cons_zero, List.set_cons_succ]
    refine wq_loadP rfl (.tmp 8) rfl (gn) nx ny rfl Ngn_11.out ?_
    simp only [Act.put, List.setIfInBounds_toArray, List.set_cons_zero, List.set_cons_succ]
    refine wq_call rfl 40 [.tmp 58] #[35] rfl [vR [nx, ny]] rfl (CG40 _) (.int .i64 0) C13.out ?_
    simp only [Act.put, List.setIfInBounds_toArray, List.set_cons_zero, List.set_cons_succ]
    refine wq_bin (P := Try.prog) rfl .eql 36 36 (.tmp 59) (.const (.int .i64 0)) rfl (.int .i64 0) (.int .i64 0) (.bool true) rfl rfl (fun _ => rfl) (run_eq36 0 0 true rfl) ?_
    simp only [Act.put, List.setIfInBounds_toArray, List.set_cons_zero, List.set_cons_succ]
    refine wq_pick rfl (.tmp 57) (.tmp 60) (.const (.bool false)) rfl true rfl (.bool true) rfl ?_
    simp only [Act.put, List.setIfInBounds_toArray, List.set_cons_zero, List.set_cons_succ]
    refine wq_move rfl (.tmp 61) rfl (.bool true) rfl ?_
    simp only [Act.put, List.setIfInBounds_toArray, List.set_cons_zero, List.set_cons_succ]
    refine wq_loadP rfl (.tmp 3) rfl (w.heap.size) px py rfl Ngp_11.out ?_
    simp only [Act.put, List.setIfInBounds_toArray, List.set_cons_zero, List.set_cons_succ]
    refine wq_loadP rfl (.tmp 8) rfl (gn) nx ny rfl Ngn_11.out ?_
    simp only [Act.put, List.setIfInBounds_toArray, List.set_cons_zero, List.set_cons_succ]
    refine wq_call rfl 44 [.tmp 63, .tmp 64] #[35, 35] rfl [vR [px, py], vR [nx, ny]] rfl (CG44 _) (vR [0, 1]) C14.out ?_
    simp only [Act.put, List.setIfInBounds_toArray, List.set_cons_zero, List.set_cons_succ]
    refine wq_call rfl 39 [] #[] rfl [] rfl (CG39 _) (vR [0, 1]) C11.out ?_
    simp only [Act.put, List.setIfInBounds_toArray, List.set_cons_zero, List.set_cons_succ]
    refine wq_eqP rfl (.tmp 65) (.tmp 66) rfl 0 1 0 1 rfl rfl true (eqP_same _ _) ?_
    simp only [Act.put, List.setIfInBounds_toArray, List.set_cons_zero, List.set_cons_succ]
    refine wq_pick rfl (.tmp 62) (.tmp 67) (.const (.bool false)) rfl true rfl (.bool true) rfl ?_
    simp only [Act.put, List.setIfInBounds_toArray, List.set_cons_zero, List.set_cons_succ]
    refine wq_move rfl (.tmp 68) rfl (.bool true) rfl ?_
    simp only [Act.put, List.setIfInBounds_toArray, List.set_cons_zero, List.set_cons_succ]
    refine wq_loadP rfl (.tmp 7) rfl (gs) sx sy rfl Ngs_11.out ?_
    simp only [Act.put, List.setIfInBounds_toArray, List.set_cons_zero, List.set_cons_succ]
    refine wq_call rfl 39 [] #[] rfl [] rfl (CG39 _) (vR [0, 1]) C11.out ?_
    simp only [Act.put, List.setIfInBounds_toArray, List.set_cons_zero, List.set_cons_succ]
    refine wq_eqP rfl (.tmp 70) (.tmp 71) rfl sx sy 0 1 rfl rfl b HE1.out ?_
    simp only [Act.put, List.setIfInBounds_toArray, List.set_cons_zero, List.set_cons_succ]
    refine wq_loadP rfl (.tmp 4) rfl (gq) qx qy rfl Ngq_11.out ?_
    simp only [Act.put, List.setIfInBounds_toArray, List.set_cons_zero, List.set_cons_succ]
    refine wq_loadP rfl (.tmp 8) rfl (gn) nx ny rfl Ngn_11.out ?_
    simp only [Act.put, List.setIfInBounds_toArray, List.set_cons_zero, List.set_cons_succ]
    refine wq_eqP rfl (.tmp 73) (.tmp 74) rfl qx qy nx ny rfl rfl b HE2.out ?_
    simp only [Act.put, List.setIfInBounds_toArray, List.set_cons_zero, List.set_cons_succ]
    refine wq_eqb (P := Try.prog) rfl (.tmp 72) (.tmp 75) rfl b b true rfl rfl (beq_self_eq_true _) ?_
    simp only [Act.put, List.setIfInBounds_toArray, List.set_cons_zero, List.set_cons_succ]
    refine wq_pick rfl (.tmp 69) (.tmp 76) (.const (.bool false)) rfl true rfl (.bool true) rfl ?_
    simp only [Act.put, List.setIfInBounds_toArray, List.set_cons_zero, List.set_cons_succ]
    refine wq_move rfl (.tmp 77) rfl (.bool true) rfl ?_
    simp only [Act.put, List.setIfInBounds_toArray, List.set_cons_zero, List.set_cons_succ]
    as_aux_lemma =>
      refine wq_loadP rfl (.tmp 7) rfl (gs) sx sy rfl Ngs_11.out ?_
      simp only [Act.put, List.setIfInBounds_toArray, List.set_cons_zero, List.set_cons_succ]
      refine wq_loadP rfl (.tmp 8) rfl (gn) nx ny rfl Ngn_11.out ?_
      simp only [Act.put, List.setIfInBounds_toArray, List.set_cons_zero, List.set_cons_succ]
      refine wq_call rfl 44 [.tmp 79, .tmp 80] #[35, 35] rfl [vR [sx, sy], vR [nx, ny]] rfl (CG44 _) (vR [qx, qy]) C15.out ?_
      simp only [Act.put, List.setIfInBounds_toArray, List.set_cons_zero, List.set_cons_succ]
      refine wq_loadP rfl (.tmp 4) rfl (gq) qx qy rfl Ngq_11.out ?_
      simp only [Act.put, List.setIfInBounds_toArray, List.set_cons_zero, List.set_cons_succ]
      refine wq_eqP rfl (.tmp 81) (.tmp 82) rfl qx qy qx qy rfl rfl true (eqP_same _ _) ?_
      simp only [Act.put, List.setIfInBounds_toArray, List.set_cons_zero, List.set_cons_succ]
      refine wq_pick rfl (.tmp 78) (.tmp 83) (.const (.bool false)) rfl true rfl (.bool true) rfl ?_
      simp only [Act.put, List.setIfInBounds_toArray, List.set_cons_zero, List.set_cons_succ]
      refine wq_move rfl (.tmp 84) rfl (.bool true) rfl ?_
      simp only [Act.put, List.setIfInBounds_toArray, List.set_cons_zero, List.set_cons_succ]
      refine wq_loadP rfl (.tmp 7) rfl (gs) sx sy rfl Ngs_11.out ?_
      simp only [Act.put, List.setIfInBounds_toArray, List.set_cons_zero, List.set_cons_succ]
      refine wq_call rfl 51 [.tmp 86] #[35] rfl [vR [sx, sy]] rfl (CG51 _) (vR [mx, my]) C16.out ?_
      simp only [Act.put, List.setIfInBounds_toArray, List.set_cons_zero, List.set_cons_succ]
      refine wq_loadP rfl (.tmp 8) rfl (gn) nx ny rfl Ngn_11.out ?_
      simp only [Act.put, List.setIfInBounds_toArray, List.set_cons_zero, List.set_cons_succ]
      refine wq_loadP rfl (.tmp 4) rfl (gq) qx qy rfl Ngq_11.out ?_
      simp only [Act.put, List.setIfInBounds_toArray, List.set_cons_zero, List.set_cons_succ]
      refine wq_call rfl 51 [.tmp 89] #[35] rfl [vR [qx, qy]] rfl (CG51 _) (vR [kx, ky]) C17.out ?_
      simp only [Act.put, List.setIfInBounds_toArray, List.set_cons_zero, List.set_cons_succ]
      refine wq_call rfl 44 [.tmp 88, .tmp 90] #[35, 35] rfl [vR [nx, ny], vR [kx, ky]] rfl (CG44 _) (vR [mx, my]) C18.out ?_
      simp only [Act.put, List.setIfInBounds_toArray, List.set_cons_zero, List.set_cons_succ]
      refine wq_eqP rfl (.tmp 87) (.tmp 91) rfl mx my mx my rfl rfl true (eqP_same _ _) ?_
      simp only [Act.put, List.setIfInBounds_toArray, List.set_cons_zero, List.set_cons_succ]
      refine wq_pick rfl (.tmp 85) (.tmp 92) (.const (.bool false)) rfl true rfl (.bool true) rfl ?_
      simp only [Act.put, List.setIfInBounds_toArray, List.set_cons_zero, List.set_cons_succ]
      refine wq_assign rfl (.tmp 93) rfl (.bool true) rfl ?_
      simp only [Act.put, List.setIfInBounds_toArray, List.set_cons_zero, List.set_cons_succ]
      refine wq_nil ?_
      intro W hb
      have HBW : Hid (Below w.heap.size w W) := HF_11.out.trans (hb.mono HF_11.out.size)
      clear hb HF_11 Ngp_11 Ngq_11 Ngr_11 Ngs_11 Ngn_11
      go_wp2
      go_ret
      exact ⟨rfl, HBW.out⟩

set_option maxHeartbeats 8000000 in
set_option maxRecDepth 100000 in
theorem group_bad1 (px py qx qy rx ry : Nat) (w : World) (C0 : Hid (∀ w, Calls Try.prog 38 #[] w (Gives (.bool true) w))) (D0 : Hid (∀ w, Calls Try.prog 40 #[vR [px, py]] w (Gives (.int .i64 2) w))) :
    Calls Try.prog 6 #[vR [px, py], vR [qx, qy], vR [rx, ry]] w (Gives (.bool true) w) := by
  have HF_0 : Hid (Below w.heap.size w w) := Lib.hid (Below.refl _ _)
  go_enter Try.func6, Try.ntmps6
  go_wp2_with (first | ((with_reducible show wpList _ _ _ (⟨some 3, .box 35 (.tmp 0), _, _, _, _⟩ :: _) _ _); go_must (refine wpList_box_row rfl 35 (.tmp 0) rfl (bcs (encs [px, py])).toArray rfl ?_; intro u12 ha12 hza12 hga12; have Ngp_12 : Hid (RAt u12 w.heap.size [px, py]) := Lib.hid (⟨_, ha12⟩); have HF_12 : Hid (Below w.heap.size w u12) := Lib.hid (HF_0.out.grown hga12 HF_0.out.size (by simp)); have HGE12 : Hid (w.heap.size ≤ w.heap.size) := Lib.hid HF_0.out.size; clear ha12 hza12 hga12 HF_0)) | ((with_reducible show wpList _ _ _ (⟨some 4, .box 35 (.tmp 1), _, _, _, _⟩ :: _) _ _); go_must (refine wpList_box_row rfl 35 (.tmp 1) rfl (bcs (encs [qx, qy])).toArray rfl ?_; intro u13 ha13 hza13 hga13; have Ngp_13 := Lib.hid (Ngp_12.out.grown hga13 (by simp)); have Ngq_13 : Hid (RAt u13 u12.heap.size [qx, qy]) := Lib.hid (⟨_, ha13⟩); have HF_13 : Hid (Below w.heap.size w u13) := Lib.hid (HF_12.out.grown hga13 HF_12.out.size (by simp)); have HNE13_0 : Hid (w.heap.size ≠ u12.heap.size) := Lib.hid (by have := Ngp_12.out.lt; omega); have HGE13 : Hid (w.heap.size ≤ u12.heap.size) := Lib.hid HF_12.out.size; clear ha13 hza13 hga13 Ngp_12 HF_12)) | ((with_reducible show wpList _ _ _ (⟨some 5, .box 35 (.tmp 2), _, _, _, _⟩ :: _) _ _); go_must (refine wpList_box_row rfl 35 (.tmp 2) rfl (bcs (encs [rx, ry])).toArray rfl ?_; intro u14 ha14 hza14 hga14; have Ngp_14 := Lib.hid (Ngp_13.out.grown hga14 (by simp)); have Ngq_14 := Lib.hid (Ngq_13.out.grown hga14 (by simp)); have Ngr_14 : Hid (RAt u14 u13.heap.size [rx, ry]) := Lib.hid (⟨_, ha14⟩); have HF_14 : Hid (Below w.heap.size w u14) := Lib.hid (HF_13.out.grown hga14 HF_13.out.size (by simp)); have HNE14_1 : Hid (w.heap.size ≠ u13.heap.size) := Lib.hid (by have := Ngp_13.out.lt; omega); have HNE14_2 : Hid (u12.heap.size ≠ u13.heap.size) := Lib.hid (by have := Ngq_13.out.lt; omega); have HGE14 : Hid (w.heap.size ≤ u13.heap.size) := Lib.hid HF_13.out.size; clear ha14 hza14 hga14 Ngp_13 Ngq_13 HF_13)) | fail)
  generalize u12.heap.size = gq at *
  generalize u13.heap.size = gr at *
  refine (C0.out _).mono ?_
  rintro e15 x15 ⟨rfl, hb15⟩
  have Ngp_15 := Lib.hid (Ngp_14.out.keep hb15)
  have Ngq_15 := Lib.hid (Ngq_14.out.keep hb15)
  have Ngr_15 := Lib.hid (Ngr_14.out.keep hb15)
  have HF_15 : Hid (Below w.heap.size w x15) := Lib.hid (HF_14.out.trans (hb15.mono HF_14.out.size))
  clear hb15 Ngp_14 Ngq_14 Ngr_14 HF_14
  go_wp2_with (first | ((with_reducible show wpList _ _ _ (⟨_, .load 35 (.tmp 3), _, _, _, _⟩ :: _) _ _); go_must (refine wpList_exec rfl (vR [px, py]) (exec_loadP (.tmp 3) rfl (w.heap.size) px py rfl Ngp_15.out) ?_)) | fail)
  refine (D0.out _).mono ?_
  rintro e16 x16 ⟨rfl, hb16⟩
  have Ngp_16 := Lib.hid (Ngp_15.out.keep hb16)
  have Ngq_16 := Lib.hid (Ngq_15.out.keep hb16)
  have Ngr_16 := Lib.hid (Ngr_15.out.keep hb16)
  have HF_16 : Hid (Below w.heap.size w x16) := Lib.hid (HF_15.out.trans (hb16.mono HF_15.out.size))
  clear hb16 Ngp_15 Ngq_15 Ngr_15 HF_15
  go_wp2
  go_ret
  exact ⟨rfl, HF_16.out⟩

set_option maxHeartbeats 8000000 in
set_option maxRecDepth 100000 in
theorem group_bad2 (px py qx qy rx ry : Nat) (w : World) (C0 : Hid (∀ w, Calls Try.prog 38 #[] w (Gives (.bool true) w))) (D0 : Hid (∀ w, Calls Try.prog 40 #[vR [px, py]] w (Gives (.int .i64 0) w))) (D1 : Hid (∀ w, Calls Try.prog 40 #[vR [qx, qy]] w (Gives (.int .i64 2) w))) :
    Calls Try.prog 6 #[vR [px, py], vR [qx, qy], vR [rx, ry]] w (Gives (.bool true) w) := by
  have HF_0 : Hid (Below w.heap.size w w) := Lib.hid (Below.refl _ _)
  go_enter Try.func6, Try.ntmps6
  go_wp2_with (first | ((with_reducible show wpList _ _ _ (⟨some 3, .box 35 (.tmp 0), _, _, _, _⟩ :: _) _ _); go_must (refine wpList_box_row rfl 35 (.tmp 0) rfl (bcs (encs [px, py])).toArray rfl ?_; intro u17 ha17 hza17 hga17; have Ngp_17 : Hid (RAt u17 w.heap.size [px, py]) := Lib.hid (⟨_, ha17⟩); have HF_17 : Hid (Below w.heap.size w u17) := Lib.hid (HF_0.out.grown hga17 HF_0.out.size (by simp)); have HGE17 : Hid (w.heap.size ≤ w.heap.size) := Lib.hid HF_0.out.size; clear ha17 hza17 hga17 HF_0)) | ((with_reducible show wpList _ _ _ (⟨some 4, .box 35 (.tmp 1), _, _, _, _⟩ :: _) _ _); go_must (refine wpList_box_row rfl 35 (.tmp 1) rfl (bcs (encs [qx, qy])).toArray rfl ?_; intro u18 ha18 hza18 hga18; have Ngp_18 := Lib.hid (Ngp_17.out.grown hga18 (by simp)); have Ngq_18 : Hid (RAt u18 u17.heap.size [qx, qy]) := Lib.hid (⟨_, ha18⟩); have HF_18 : Hid (Below w.heap.size w u18) := Lib.hid (HF_17.out.grown hga18 HF_17.out.size (by simp)); have HNE18_0 : Hid (w.heap.size ≠ u17.heap.size) := Lib.hid (by have := Ngp_17.out.lt; omega); have HGE18 : Hid (w.heap.size ≤ u17.heap.size) := Lib.hid HF_17.out.size; clear ha18 hza18 hga18 Ngp_17 HF_17)) | ((with_reducible show wpList _ _ _ (⟨some 5, .box 35 (.tmp 2), _, _, _, _⟩ :: _) _ _); go_must (refine wpList_box_row rfl 35 (.tmp 2) rfl (bcs (encs [rx, ry])).toArray rfl ?_; intro u19 ha19 hza19 hga19; have Ngp_19 := Lib.hid (Ngp_18.out.grown hga19 (by simp)); have Ngq_19 := Lib.hid (Ngq_18.out.grown hga19 (by simp)); have Ngr_19 : Hid (RAt u19 u18.heap.size [rx, ry]) := Lib.hid (⟨_, ha19⟩); have HF_19 : Hid (Below w.heap.size w u19) := Lib.hid (HF_18.out.grown hga19 HF_18.out.size (by simp)); have HNE19_1 : Hid (w.heap.size ≠ u18.heap.size) := Lib.hid (by have := Ngp_18.out.lt; omega); have HNE19_2 : Hid (u17.heap.size ≠ u18.heap.size) := Lib.hid (by have := Ngq_18.out.lt; omega); have HGE19 : Hid (w.heap.size ≤ u18.heap.size) := Lib.hid HF_18.out.size; clear ha19 hza19 hga19 Ngp_18 Ngq_18 HF_18)) | fail)
  generalize u17.heap.size = gq at *
  generalize u18.heap.size = gr at *
  refine (C0.out _).mono ?_
  rintro e20 x20 ⟨rfl, hb20⟩
  have Ngp_20 := Lib.hid (Ngp_19.out.keep hb20)
  have Ngq_20 := Lib.hid (Ngq_19.out.keep hb20)
  have Ngr_20 := Lib.hid (Ngr_19.out.keep hb20)
  have HF_20 : Hid (Below w.heap.size w x20) := Lib.hid (HF_19.out.trans (hb20.mono HF_19.out.size))
  clear hb20 Ngp_19 Ngq_19 Ngr_19 HF_19
  go_wp2_with (first | ((with_reducible show wpList _ _ _ (⟨_, .load 35 (.tmp 3), _, _, _, _⟩ :: _) _ _); go_must (refine wpList_exec rfl (vR [px, py]) (exec_loadP (.tmp 3) rfl (w.heap.size) px py rfl Ngp_20.out) ?_)) | fail)
  refine (D0.out _).mono ?_
  rintro e21 x21 ⟨rfl, hb21⟩
  have Ngp_21 := Lib.hid (Ngp_20.out.keep hb21)
  have Ngq_21 := Lib.hid (Ngq_20.out.keep hb21)
  have Ngr_21 := Lib.hid (Ngr_20.out.keep hb21)
  have HF_21 : Hid (Below w.heap.size w x21) := Lib.hid (HF_20.out.trans (hb21.mono HF_20.out.size))
  clear hb21 Ngp_20 Ngq_20 Ngr_20 HF_20
  go_wp2_with (first | ((with_reducible show wpList _ _ _ (⟨_, .load 35 (.tmp 4), _, _, _, _⟩ :: _) _ _); go_must (refine wpList_exec rfl (vR [qx, qy]) (exec_loadP (.tmp 4) rfl (gq) qx qy rfl Ngq_21.out) ?_)) | fail)
  refine (D1.out _).mono ?_
  rintro e22 x22 ⟨rfl, hb22⟩
  have Ngp_22 := Lib.hid (Ngp_21.out.keep hb22)
  have Ngq_22 := Lib.hid (Ngq_21.out.keep hb22)
  have Ngr_22 := Lib.hid (Ngr_21.out.keep hb22)
  have HF_22 : Hid (Below w.heap.size w x22) := Lib.hid (HF_21.out.trans (hb22.mono HF_21.out.size))
  clear hb22 Ngp_21 Ngq_21 Ngr_21 HF_21
  go_wp2
  go_ret
  exact ⟨rfl, HF_22.out⟩

set_option maxHeartbeats 8000000 in
set_option maxRecDepth 100000 in
theorem group_bad3 (px py qx qy rx ry : Nat) (w : World) (C0 : Hid (∀ w, Calls Try.prog 38 #[] w (Gives (.bool true) w))) (D0 : Hid (∀ w, Calls Try.prog 40 #[vR [px, py]] w (Gives (.int .i64 0) w))) (D1 : Hid (∀ w, Calls Try.prog 40 #[vR [qx, qy]] w (Gives (.int .i64 0) w))) (D2 : Hid (∀ w, Calls Try.prog 40 #[vR [rx, ry]] w (Gives (.int .i64 2) w))) :
    Calls Try.prog 6 #[vR [px, py], vR [qx, qy], vR [rx, ry]] w (Gives (.bool true) w) := by
  have HF_0 : Hid (Below w.heap.size w w) := Lib.hid (Below.refl _ _)
  go_enter Try.func6, Try.ntmps6
  go_wp2_with (first | ((with_reducible show wpList _ _ _ (⟨some 3, .box 35 (.tmp 0), _, _, _, _⟩ :: _) _ _); go_must (refine wpList_box_row rfl 35 (.tmp 0) rfl (bcs (encs [px, py])).toArray rfl ?_; intro u23 ha23 hza23 hga23; have Ngp_23 : Hid (RAt u23 w.heap.size [px, py]) := Lib.hid (⟨_, ha23⟩); have HF_23 : Hid (Below w.heap.size w u23) := Lib.hid (HF_0.out.grown hga23 HF_0.out.size (by simp)); have HGE23 : Hid (w.heap.size ≤ w.heap.size) := Lib.hid HF_0.out.size; clear ha23 hza23 hga23 HF_0)) | ((with_reducible show wpList _ _ _ (⟨some 4, .box 35 (.tmp 1), _, _, _, _⟩ :: _) _ _); go_must (refine wpList_box_row rfl 35 (.tmp 1) rfl (bcs (encs [qx, qy])).toArray rfl ?_; intro u24 ha24 hza24 hga24; have Ngp_24 := Lib.hid (Ngp_23.out.grown hga24 (by simp)); have Ngq_24 : Hid (RAt u24 u23.heap.size [qx, qy]) := Lib.hid (⟨_, ha24⟩); have HF_24 : Hid (Below w.heap.size w u24) := Lib.hid (HF_23.out.grown hga24 HF_23.out.size (by simp)); have HNE24_0 : Hid (w.heap.size ≠ u23.heap.size) := Lib.hid (by have := Ngp_23.out.lt; omega); have HGE24 : Hid (w.heap.size ≤ u23.heap.size) := Lib.hid HF_23.out.size; clear ha24 hza24 hga24 Ngp_23 HF_23)) | ((with_reducible show wpList _ _ _ (⟨some 5, .box 35 (.tmp 2), _, _, _, _⟩ :: _) _ _); go_must (refine wpList_box_row rfl 35 (.tmp 2) rfl (bcs (encs [rx, ry])).toArray rfl ?_; intro u25 ha25 hza25 hga25; have Ngp_25 := Lib.hid (Ngp_24.out.grown hga25 (by simp)); have Ngq_25 := Lib.hid (Ngq_24.out.grown hga25 (by simp)); have Ngr_25 : Hid (RAt u25 u24.heap.size [rx, ry]) := Lib.hid (⟨_, ha25⟩); have HF_25 : Hid (Below w.heap.size w u25) := Lib.hid (HF_24.out.grown hga25 HF_24.out.size (by simp)); have HNE25_1 : Hid (w.heap.size ≠ u24.heap.size) := Lib.hid (by have := Ngp_24.out.lt; omega); have HNE25_2 : Hid (u23.heap.size ≠ u24.heap.size) := Lib.hid (by have := Ngq_24.out.lt; omega); have HGE25 : Hid (w.heap.size ≤ u24.heap.size) := Lib.hid HF_24.out.size; clear ha25 hza25 hga25 Ngp_24 Ngq_24 HF_24)) | fail)
  generalize u23.heap.size = gq at *
  generalize u24.heap.size = gr at *
  refine (C0.out _).mono ?_
  rintro e26 x26 ⟨rfl, hb26⟩
  have Ngp_26 := Lib.hid (Ngp_25.out.keep hb26)
  have Ngq_26 := Lib.hid (Ngq_25.out.keep hb26)
  have Ngr_26 := Lib.hid (Ngr_25.out.keep hb26)
  have HF_26 : Hid (Below w.heap.size w x26) := Lib.hid (HF_25.out.trans (hb26.mono HF_25.out.size))
  clear hb26 Ngp_25 Ngq_25 Ngr_25 HF_25
  go_wp2_with (first | ((with_reducible show wpList _ _ _ (⟨_, .load 35 (.tmp 3), _, _, _, _⟩ :: _) _ _); go_must (refine wpList_exec rfl (vR [px, py]) (exec_loadP (.tmp 3) rfl (w.heap.size) px py rfl Ngp_26.out) ?_)) | fail)
  refine (D0.out _).mono ?_
  rintro e27 x27 ⟨rfl, hb27⟩
  have Ngp_27 := Lib.hid (Ngp_26.out.keep hb27)
  have Ngq_27 := Lib.hid (Ngq_26.out.keep hb27)
  have Ngr_27 := Lib.hid (Ngr_26.out.keep hb27)
  have HF_27 : Hid (Below w.heap.size w x27) := Lib.hid (HF_26.out.trans (hb27.mono HF_26.out.size))
  clear hb27 Ngp_26 Ngq_26 Ngr_26 HF_26
  go_wp2_with (first | ((with_reducible show wpList _ _ _ (⟨_, .load 35 (.tmp 4), _, _, _, _⟩ :: _) _ _); go_must (refine wpList_exec rfl (vR [qx, qy]) (exec_loadP (.tmp 4) rfl (gq) qx qy rfl Ngq_27.out) ?_)) | fail)
  refine (D1.out _).mono ?_
  rintro e28 x28 ⟨rfl, hb28⟩
  have Ngp_28 := Lib.hid (Ngp_27.out.keep hb28)
  have Ngq_28 := Lib.hid (Ngq_27.out.keep hb28)
  have Ngr_28 := Lib.hid (Ngr_27.out.keep hb28)
  have HF_28 : Hid (Below w.heap.size w x28) := Lib.hid (HF_27.out.trans (hb28.mono HF_27.out.size))
  clear hb28 Ngp_27 Ngq_27 Ngr_27 HF_27
  go_wp2_with (first | ((with_reducible show wpList _ _ _ (⟨_, .load 35 (.tmp 5), _, _, _, _⟩ :: _) _ _); go_must (refine wpList_exec rfl (vR [rx, ry]) (exec_loadP (.tmp 5) rfl (gr) rx ry rfl Ngr_28.out) ?_)) | fail)
  refine (D2.out _).mono ?_
  rintro e29 x29 ⟨rfl, hb29⟩
  have Ngp_29 := Lib.hid (Ngp_28.out.keep hb29)
  have Ngq_29 := Lib.hid (Ngq_28.out.keep hb29)
  have Ngr_29 := Lib.hid (Ngr_28.out.keep hb29)
  have HF_29 : Hid (Below w.heap.size w x29) := Lib.hid (HF_28.out.trans (hb29.mono HF_28.out.size))
  clear hb29 Ngp_28 Ngq_28 Ngr_28 HF_28
  go_wp2
  go_ret
  exact ⟨rfl, HF_29.out⟩

theorem vZ : vPt EC.zero = vR [0, 1] := by unfold vPt Ed.zero; rw [v1]; rfl
theorem walkP (p q r : EC.Pt) (w : World) : Calls Try.prog 6 #[vPt p, vPt q, vPt r] w (Gives (.bool true) w) := by
  have key := fun (z : EC.Pt) (hz : vPt z = vR [0, 1]) => hz
  have hb : decide (EC.add p q = EC.zero) = decide (q = EC.neg p) := by
    rw [Bool.eq_iff_iff, decide_eq_true_eq, decide_eq_true_eq]
    exact ⟨fun h => EC.neg_uniq h, fun h => by rw [h, EC.add_neg]⟩
  have e1 : ∀ w, (Op.equalIn 10000 35 (vPt (EC.add p q)) (vR [0, 1])).run Try.prog w = .ok (decide (EC.add p q = EC.zero)) w := fun w => by
    rw [← vZ]
    exact pEq _ _ w
  have e2 : ∀ w, (Op.equalIn 10000 35 (vPt q) (vPt (EC.neg p))).run Try.prog w = .ok (decide (EC.add p q = EC.zero)) w := fun w => by
    rw [hb]
    exact pEq _ _ w
  have hZ : ∀ w, Calls Try.prog 39 #[] w (Gives (vR [0, 1]) w) := Zero_any
  have hpz : ∀ w, Calls Try.prog 44 #[vPt p, vR [0, 1]] w (Gives (vPt p) w) := fun w => by
    have h := pAdd p EC.zero w
    rw [EC.add_zero, vZ] at h
    exact h
  have hpn : ∀ w, Calls Try.prog 44 #[vPt p, vPt (EC.neg p)] w (Gives (vR [0, 1]) w) := fun w => by
    have h := pAdd p (EC.neg p) w
    rw [EC.add_neg, vZ] at h
    exact h
  exact group_core _ _ _ _ _ _ _ _ _ _ _ _ _ _ _ _ _ _ _ w (Lib.hid (clives_any)) (Lib.hid (pCheck p)) (Lib.hid (pCheck q)) (Lib.hid (pCheck r)) (Lib.hid (fun w => gives_V (congrArg vPt (rfl)) (pAdd p q w))) (Lib.hid (pNeg p)) (Lib.hid (pCheck (EC.add p q))) (Lib.hid (fun w => gives_V (congrArg vPt (EC.add_comm q p)) (pAdd q p w))) (Lib.hid (fun w => gives_V (congrArg vPt (rfl)) (pAdd (EC.add p q) r w))) (Lib.hid (fun w => gives_V (congrArg vPt (rfl)) (pAdd q r w))) (Lib.hid (fun w => gives_V (congrArg vPt ((EC.add_assoc p q r).symm)) (pAdd p (EC.add q r) w))) (Lib.hid (hZ)) (Lib.hid (hpz)) (Lib.hid (pCheck (EC.neg p))) (Lib.hid (hpn)) (Lib.hid (fun w => gives_V (congrArg vPt (EC.add_neg_cancel p q)) (pAdd (EC.add p q) (EC.neg p) w))) (Lib.hid (pNeg (EC.add p q))) (Lib.hid (pNeg q)) (Lib.hid (fun w => gives_V (congrArg vPt ((EC.neg_sum p q).symm)) (pAdd (EC.neg p) (EC.neg q) w))) (Lib.hid e1) (Lib.hid e2)
theorem walk (X0 Y0 X1 Y1 X2 Y2 : Nat) (w : World) (a0 : X0 < TT) (b0 : Y0 < TT) (a1 : X1 < TT) (b1 : Y1 < TT) (a2 : X2 < TT) (b2 : Y2 < TT) :
    Calls Try.prog 6 #[vR [X0, Y0], vR [X1, Y1], vR [X2, Y2]] w fun e w' => e = .returned (.bool true) ∧ Below w.heap.size w w' := by
  have h0 := Check_any X0 Y0 a0 b0
  have h1 := Check_any X1 Y1 a1 b1
  have h2 := Check_any X2 Y2 a2 b2
  rcases chk_two X0 Y0 with c0 | c0
  · rcases chk_two X1 Y1 with c1 | c1
    · rcases chk_two X2 Y2 with c2 | c2
      · obtain ⟨p, e0, _⟩ := chk_zero _ _ c0
        obtain ⟨q, e1, _⟩ := chk_zero _ _ c1
        obtain ⟨r, e2, _⟩ := chk_zero _ _ c2
        rw [e0, e1, e2]
        exact walkP p q r w
      · rw [c0] at h0
        rw [c1] at h1
        rw [c2] at h2
        exact group_bad3 _ _ _ _ _ _ w (Lib.hid clives_any) (Lib.hid h0) (Lib.hid h1) (Lib.hid h2)
    · rw [c0] at h0
      rw [c1] at h1
      exact group_bad2 _ _ _ _ _ _ w (Lib.hid clives_any) (Lib.hid h0) (Lib.hid h1)
  · rw [c0] at h0
    exact group_bad1 _ _ _ _ _ _ w (Lib.hid clives_any) (Lib.hid h0)

set_option maxRecDepth 100000 in
theorem lifted (os : Os) (started : os.Started) (H : Type) (enc : TypeId × Value → H) :
    ReturnsInHanded {} Try.checked os 6 .any (Rows.curveGroupSpec.pre6 enc Try.prog Try.f6 Rows.curveGroupRow.domain false) (Rows.curveGroupSpec.post enc Try.prog Try.f6 false true false false) := by
  refine returnsInHanded_of_change (C := Try.checked) own started (by kernel_rfl) Try.func6
    (ChangeSpec.witness6 (enc := enc) (C := Try.checked) false ⟨#[], #[.agg (Array.replicate 64 (.int .u8 0)), .agg (Array.replicate 64 (.int .u8 0)), .agg (Array.replicate 64 (.int .u8 0))], []⟩ 8 (by kernel_rfl) (by kernel_rfl) (by kernel_rfl) (by kernel_rfl)) ?_
  intro W base args ds gs before hval0 hW hcnd _
  have hval : ∀ (j : Nat) t v, Try.f6.params[j]? = some t → args[j]? = some v → Value.okWide Try.prog W .any base t v := hval0
  have hW' := hW
  obtain ⟨p, q, hA0, hV, rfl, hfz, hnd⟩ := hW
  have hA : DataW.TrodAll enc Try.prog W 0 (fun _ => true) true Try.f6.params.toList args.toList ds p := hA0
  rw [Try.params6] at hA hval
  obtain ⟨v0, vs0, d0, ds0, p0, q0, hargs, rfl, rfl, h0, r0⟩ := trodAll_cons hA
  obtain ⟨v1, vs1, d1, ds1, p1, q1, rfl, rfl, rfl, h1, r1⟩ := trodAll_cons r0
  obtain ⟨v2, vs2, d2, ds2, p2, q2, rfl, rfl, rfl, h2, r2⟩ := trodAll_cons r1
  obtain ⟨rfl, rfl, rfl⟩ := trodAll_nil r2
  obtain rfl : args = #[v0, v1, v2] := by cases args; simp_all
  obtain ⟨rfl, rfl⟩ := trodVars_none hV
  have k0 := h0
  have lt0 : ∀ x ∈ p0, x.block < W.heap.size := by obtain ⟨m, hm⟩ := k0; exact DataW.trod_lt m _ _ _ hm
  obtain ⟨X0, Y0, wX0, wY0, rfl⟩ := open_pt (hval 0 35 v0 rfl rfl) h0
  have k1 := h1
  have lt1 : ∀ x ∈ p1, x.block < W.heap.size := by obtain ⟨m, hm⟩ := k1; exact DataW.trod_lt m _ _ _ hm
  obtain ⟨X1, Y1, wX1, wY1, rfl⟩ := open_pt (hval 1 35 v1 rfl rfl) h1
  have k2 := h2
  have lt2 : ∀ x ∈ p2, x.block < W.heap.size := by obtain ⟨m, hm⟩ := k2; exact DataW.trod_lt m _ _ _ hm
  obtain ⟨X2, Y2, wX2, wY2, rfl⟩ := open_pt (hval 2 35 v2 rfl rfl) h2
  clear hA0 hval0
  refine (walk X0 Y0 X1 Y1 X2 Y2 W wX0 wY0 wX1 wY1 wX2 wY2).mono fun e W' ⟨he, bel⟩ => ?_
  subst he
  exact ⟨_, rfl, _, _, _, [], _, [], hW', trodAll_mk1 (shut_bool Try.underlying4 _), (trodAll_cons_mk (Below.trod laidOut (by kernel_rfl) (of_decide_eq_true (by kernel_rfl)) k0 bel lt0) (trodAll_cons_mk (Below.trod laidOut (by kernel_rfl) (of_decide_eq_true (by kernel_rfl)) k1 bel lt1) (trodAll_cons_mk (Below.trod laidOut (by kernel_rfl) (of_decide_eq_true (by kernel_rfl)) k2 bel lt2) trodAll_mk0))), rfl, bel.frame _, fun h => by cases h⟩

theorem over : Rows.curveGroupRow.holds Try.pinned (OpenSpec.ofChange Rows.curveGroupSpec) :=
  OpenClaim.holds_of_wide 6 Try.f6 rfl rfl rfl rfl rfl rfl rfl ⟨rfl, rfl, rfl, rfl, rfl⟩ rfl rfl rfl rfl rfl (by kernel_rfl) Try.func6 (by kernel_rfl)
    (of_decide_eq_true (by kernel_rfl)) (by unfold Func.isWrapper; first | (rw [if_pos (by decide +kernel)]; kernel_rfl) | (rw [if_neg (by decide +kernel)]; exact ⟨rfl, rfl⟩))
    (fun os started H enc _ => lifted os started H enc)

/-- The statement. -/
theorem proved : Rows.CurveGroupSaid := over
#print axioms proved
end Go.Proofs.Ytgdimnbdnepbgaa.curveGroup
