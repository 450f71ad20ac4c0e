/- Several texts in one. No statement is proved here. -/
import Derived.Test.YtgdimnbdnepbgaaC5
import Derived.Test.YtgdimnbdnepbgaaC3
import Derived.Test.YtgdimnbdnepbgaaC4
/- Mul2, Mul, Small. No statement is proved here. -/
namespace Go.Proofs.Ytgdimnbdnepbgaa
open Go.RowKit
set_option linter.unusedVariables false
set_option maxRecDepth 40000
set_option linter.unusedSimpArgs false
def oET0 : Oper := { dst := some 5, op := Op.load 23 (Operand.tmp 2), type := 23, pos := "curve.go:72", after := #[], guard := none }
def oET1 : Oper := { dst := some 6, op := Op.load 35 (Operand.tmp 3), type := 35, pos := "curve.go:72", after := #[], guard := none }
def oET2 : Oper := { dst := some 7, op := Op.build 23 #[], type := 23, pos := "curve.go:72", after := #[], guard := none }
def oET3 : Oper := { dst := some 8, op := Op.call { callee := Callee.value (Operand.func 39), args := #[], argTypes := #[] }, type := 35, pos := "curve.go:72", after := #[], guard := none }
def oET4 : Oper := { dst := some 9, op := Op.call { callee := Callee.value (Operand.func 53), args := #[Operand.tmp 5, Operand.tmp 6, Operand.tmp 7, Operand.tmp 8], argTypes := #[23, 35, 23, 35] }, type := 35, pos := "curve.go:72", after := #[{ on := 0, ground := Ground.data }, { on := 1, ground := Ground.data }, { on := 2, ground := Ground.data }, { on := 3, ground := Ground.data }, { on := 3, ground := Ground.chain }], guard := none }
def oET5 : Oper := { dst := none, op := Op.store 35 (Operand.tmp 4) (Operand.tmp 9), type := 0, pos := "curve.go:72", after := #[{ on := 4, ground := Ground.data }, { on := 4, ground := Ground.chain }, { on := 0, ground := Ground.phase }, { on := 1, ground := Ground.phase }, { on := 2, ground := Ground.phase }, { on := 3, ground := Ground.phase }, { on := 4, ground := Ground.phase }], guard := none }

set_option maxHeartbeats 4000000 in
theorem Mul2_core (a b px py qx qy pt qt rx ry : Nat) (GD : Nat → Nat → Nat → Nat → Prop) (w : World)
    (C1 : Hid (∀ w, Calls Try.prog 40 #[vR [px, py]] w (Gives (.int .i64 0) w))) (C2 : Hid (∀ w, Calls Try.prog 40 #[vR [qx, qy]] w (Gives (.int .i64 0) w)))
    (HR1 : Hid (∀ (w : World) (g g1 : Nat), RAt w g [0, 0, 0, 0] → RAt w g1 [px, py] → g ≠ g1 → Calls Try.prog 80 #[.pointer (some ⟨g, 0, none⟩), .pointer (some ⟨g1, 0, none⟩)] w (SetsR g [px, py, 1, pt] w)))
    (HR2 : Hid (∀ (w : World) (g g1 : Nat), RAt w g [0, 0, 0, 0] → RAt w g1 [qx, qy] → g ≠ g1 → Calls Try.prog 80 #[.pointer (some ⟨g, 0, none⟩), .pointer (some ⟨g1, 0, none⟩)] w (SetsR g [qx, qy, 1, qt] w)))
    (HM : Hid (∀ (w : World) (g ga gp gb gq : Nat), RAt w g [0, 0, 0, 0] → RAt w ga [a] → RAt w gp [px, py, 1, pt] → RAt w gb [b] → RAt w gq [qx, qy, 1, qt] → ga ≠ g → gp ≠ g → gb ≠ g → gq ≠ g → Calls Try.prog 88 #[.pointer (some ⟨g, 0, none⟩), .pointer (some ⟨ga, 0, none⟩), .pointer (some ⟨gp, 0, none⟩), .pointer (some ⟨gb, 0, none⟩), .pointer (some ⟨gq, 0, none⟩)] w (fun e w' => ∃ X Y Z T, GD X Y Z T ∧ SetsR g [X, Y, Z, T] w e w')))
    (HP : Hid (∀ X Y Z T, GD X Y Z T → ∀ (w : World) (g : Nat), RAt w g [X, Y, Z, T] → Calls Try.prog 82 #[.pointer (some ⟨g, 0, none⟩)] w (Gives (vR [rx, ry]) w))) :
    Calls Try.prog 53 #[vN a, vR [px, py], vN b, vR [qx, qy]] w (Gives (vR [rx, ry]) w) := by
  have HF_0 : Hid (Below w.heap.size w w) := Lib.hid (Below.refl _ _)
  go_enter Try.func53, Try.ntmps53
  go_wp2_with (first | ((with_reducible show wpList _ _ _ (⟨some 4, .box 23 (.tmp 0), _, _, _, _⟩ :: _) _ _); go_must (refine wpList_box_row rfl 23 (.tmp 0) rfl (bcs (enc a)).toArray rfl ?_; intro u1 ha1 hza1 hga1; have Nga_1 : Hid (RAt u1 w.heap.size [a]) := Lib.hid (NAt.row ⟨_, ha1⟩); have HF_1 : Hid (Below w.heap.size w u1) := Lib.hid (HF_0.out.grown hga1 HF_0.out.size (by simp)); have HGE1 : Hid (w.heap.size ≤ w.heap.size) := Lib.hid HF_0.out.size; clear ha1 hza1 hga1 HF_0)) | ((with_reducible show wpList _ _ _ (⟨some 5, .box 35 (.tmp 1), _, _, _, _⟩ :: _) _ _); go_must (refine wpList_box_row rfl 35 (.tmp 1) rfl (bcs (encs [px, py])).toArray rfl ?_; intro u2 ha2 hza2 hga2; have Nga_2 := Lib.hid (Nga_1.out.grown hga2 (by simp)); have Ngp_2 : Hid (RAt u2 u1.heap.size [px, py]) := Lib.hid (⟨_, ha2⟩); have HF_2 : Hid (Below w.heap.size w u2) := Lib.hid (HF_1.out.grown hga2 HF_1.out.size (by simp)); have HNE2_0 : Hid (w.heap.size ≠ u1.heap.size) := Lib.hid (by have := Nga_1.out.lt; omega); have HGE2 : Hid (w.heap.size ≤ u1.heap.size) := Lib.hid HF_1.out.size; clear ha2 hza2 hga2 Nga_1 HF_1)) | ((with_reducible show wpList _ _ _ (⟨some 6, .box 23 (.tmp 2), _, _, _, _⟩ :: _) _ _); go_must (refine wpList_box_row rfl 23 (.tmp 2) rfl (bcs (enc b)).toArray rfl ?_; intro u3 ha3 hza3 hga3; have Nga_3 := Lib.hid (Nga_2.out.grown hga3 (by simp)); have Ngp_3 := Lib.hid (Ngp_2.out.grown hga3 (by simp)); have Ngb_3 : Hid (RAt u3 u2.heap.size [b]) := Lib.hid (NAt.row ⟨_, ha3⟩); have HF_3 : Hid (Below w.heap.size w u3) := Lib.hid (HF_2.out.grown hga3 HF_2.out.size (by simp)); have HNE3_1 : Hid (w.heap.size ≠ u2.heap.size) := Lib.hid (by have := Nga_2.out.lt; omega); have HNE3_2 : Hid (u1.heap.size ≠ u2.heap.size) := Lib.hid (by have := Ngp_2.out.lt; omega); have HGE3 : Hid (w.heap.size ≤ u2.heap.size) := Lib.hid HF_2.out.size; clear ha3 hza3 hga3 Nga_2 Ngp_2 HF_2)) | ((with_reducible show wpList _ _ _ (⟨some 7, .box 35 (.tmp 3), _, _, _, _⟩ :: _) _ _); go_must (refine wpList_box_row rfl 35 (.tmp 3) rfl (bcs (encs [qx, qy])).toArray rfl ?_; intro u4 ha4 hza4 hga4; have Nga_4 := Lib.hid (Nga_3.out.grown hga4 (by simp)); have Ngp_4 := Lib.hid (Ngp_3.out.grown hga4 (by simp)); have Ngb_4 := Lib.hid (Ngb_3.out.grown hga4 (by simp)); have Ngq_4 : Hid (RAt u4 u3.heap.size [qx, qy]) := Lib.hid (⟨_, ha4⟩); have HF_4 : Hid (Below w.heap.size w u4) := Lib.hid (HF_3.out.grown hga4 HF_3.out.size (by simp)); have HNE4_3 : Hid (w.heap.size ≠ u3.heap.size) := Lib.hid (by have := Nga_3.out.lt; omega); have HNE4_4 : Hid (u1.heap.size ≠ u3.heap.size) := Lib.hid (by have := Ngp_3.out.lt; omega); have HNE4_5 : Hid (u2.heap.size ≠ u3.heap.size) := Lib.hid (by have := Ngb_3.out.lt; omega); have HGE4 : Hid (w.heap.size ≤ u3.heap.size) := Lib.hid HF_3.out.size; clear ha4 hza4 hga4 Nga_3 Ngp_3 Ngb_3 HF_3)) | ((with_reducible show wpList _ _ _ (⟨some 8, .alloc 35, _, _, _, _⟩ :: _) _ _); go_must (refine wpList_alloc_row rfl 35 rfl (.agg (zbs 64)) zero35 ?_; intro u5 ha5 hza5 hga5; have Nga_5 := Lib.hid (Nga_4.out.grown hga5 (by simp)); have Ngp_5 := Lib.hid (Ngp_4.out.grown hga5 (by simp)); have Ngb_5 := Lib.hid (Ngb_4.out.grown hga5 (by simp)); have Ngq_5 := Lib.hid (Ngq_4.out.grown hga5 (by simp)); have Ngr_5 : Hid (RAt u5 u4.heap.size [0, 0]) := Lib.hid (zrow (k := 2) ha5); have HF_5 : Hid (Below w.heap.size w u5) := Lib.hid (HF_4.out.grown hga5 HF_4.out.size (by simp)); have HNE5_6 : Hid (w.heap.size ≠ u4.heap.size) := Lib.hid (by have := Nga_4.out.lt; omega); have HNE5_7 : Hid (u1.heap.size ≠ u4.heap.size) := Lib.hid (by have := Ngp_4.out.lt; omega); have HNE5_8 : Hid (u2.heap.size ≠ u4.heap.size) := Lib.hid (by have := Ngb_4.out.lt; omega); have HNE5_9 : Hid (u3.heap.size ≠ u4.heap.size) := Lib.hid (by have := Ngq_4.out.lt; omega); have HGE5 : Hid (w.heap.size ≤ u4.heap.size) := Lib.hid HF_4.out.size; clear ha5 hza5 hga5 Nga_4 Ngp_4 Ngb_4 Ngq_4 HF_4)) | ((with_reducible show wpList _ _ _ (⟨_, .load 35 (.tmp 5), _, _, _, _⟩ :: _) _ _); go_must (refine wpList_exec rfl (vR [px, py]) (exec_loadP (.tmp 5) rfl (u1.heap.size) px py rfl Ngp_5.out) ?_)) | fail)
  generalize u1.heap.size = gp at *
  generalize u2.heap.size = gb at *
  generalize u3.heap.size = gq at *
  generalize u4.heap.size = gr at *
  refine (C1.out _).mono ?_
  rintro e6 x6 ⟨rfl, hb6⟩
  have Nga_6 := hKq Nga_5 hb6
  have Ngp_6 := hKq Ngp_5 hb6
  have Ngb_6 := hKq Ngb_5 hb6
  have Ngq_6 := hKq Ngq_5 hb6
  have Ngr_6 := hKq Ngr_5 hb6
  have HF_6 := fTq HF_5 hb6
  clear hb6 Nga_5 Ngp_5 Ngb_5 Ngq_5 Ngr_5 HF_5
  go_wp2_with (first | ((with_reducible show wpList _ _ _ (⟨_, .load 35 (.tmp 7), _, _, _, _⟩ :: _) _ _); go_must (refine wpList_exec rfl (vR [qx, qy]) (exec_loadP (.tmp 7) rfl (gq) qx qy rfl Ngq_6.out) ?_)) | fail)
  refine (C2.out _).mono ?_
  rintro e7 x7 ⟨rfl, hb7⟩
  have Nga_7 := hKq Nga_6 hb7
  have Ngp_7 := hKq Ngp_6 hb7
  have Ngb_7 := hKq Ngb_6 hb7
  have Ngq_7 := hKq Ngq_6 hb7
  have Ngr_7 := hKq Ngr_6 hb7
  have HF_7 := fTq HF_6 hb7
  clear hb7 Nga_6 Ngp_6 Ngb_6 Ngq_6 Ngr_6 HF_6
  go_wp2_with (first | ((with_reducible show wpList _ _ _ (⟨some 9, .alloc 76, _, _, _, _⟩ :: _) _ _); go_must (refine wpList_alloc_row rfl 76 rfl (.agg (zbs 128)) zero76 ?_; intro u8 ha8 hza8 hga8; have Nga_8 := Lib.hid (Nga_7.out.grown hga8 (by simp)); have Ngp_8 := Lib.hid (Ngp_7.out.grown hga8 (by simp)); have Ngb_8 := Lib.hid (Ngb_7.out.grown hga8 (by simp)); have Ngq_8 := Lib.hid (Ngq_7.out.grown hga8 (by simp)); have Ngr_8 := Lib.hid (Ngr_7.out.grown hga8 (by simp)); have Ngu_8 : Hid (RAt u8 x7.heap.size [0, 0, 0, 0]) := Lib.hid (zrow (k := 4) ha8); have HF_8 : Hid (Below w.heap.size w u8) := Lib.hid (HF_7.out.grown hga8 HF_7.out.size (by simp)); have HNE8_10 : Hid (w.heap.size ≠ x7.heap.size) := Lib.hid (by have := Nga_7.out.lt; omega); have HNE8_11 : Hid (gp ≠ x7.heap.size) := Lib.hid (by have := Ngp_7.out.lt; omega); have HNE8_12 : Hid (gb ≠ x7.heap.size) := Lib.hid (by have := Ngb_7.out.lt; omega); have HNE8_13 : Hid (gq ≠ x7.heap.size) := Lib.hid (by have := Ngq_7.out.lt; omega); have HNE8_14 : Hid (gr ≠ x7.heap.size) := Lib.hid (by have := Ngr_7.out.lt; omega); have HGE8 : Hid (w.heap.size ≤ x7.heap.size) := Lib.hid HF_7.out.size; clear ha8 hza8 hga8 Nga_7 Ngp_7 Ngb_7 Ngq_7 Ngr_7 HF_7)) | ((with_reducible show wpList _ _ _ (⟨some 10, .alloc 76, _, _, _, _⟩ :: _) _ _); go_must (refine wpList_alloc_row rfl 76 rfl (.agg (zbs 128)) zero76 ?_; intro u9 ha9 hza9 hga9; have Nga_9 := Lib.hid (Nga_8.out.grown hga9 (by simp)); have Ngp_9 := Lib.hid (Ngp_8.out.grown hga9 (by simp)); have Ngb_9 := Lib.hid (Ngb_8.out.grown hga9 (by simp)); have Ngq_9 := Lib.hid (Ngq_8.out.grown hga9 (by simp)); have Ngr_9 := Lib.hid (Ngr_8.out.grown hga9 (by simp)); have Ngu_9 := Lib.hid (Ngu_8.out.grown hga9 (by simp)); have Ngv_9 : Hid (RAt u9 u8.heap.size [0, 0, 0, 0]) := Lib.hid (zrow (k := 4) ha9); have HF_9 : Hid (Below w.heap.size w u9) := Lib.hid (HF_8.out.grown hga9 HF_8.out.size (by simp)); have HNE9_15 : Hid (w.heap.size ≠ u8.heap.size) := Lib.hid (by have := Nga_8.out.lt; omega); have HNE9_16 : Hid (gp ≠ u8.heap.size) := Lib.hid (by have := Ngp_8.out.lt; omega); have HNE9_17 : Hid (gb ≠ u8.heap.size) := Lib.hid (by have := Ngb_8.out.lt; omega); have HNE9_18 : Hid (gq ≠ u8.heap.size) := Lib.hid (by have := Ngq_8.out.lt; omega); have HNE9_19 : Hid (gr ≠ u8.heap.size) := Lib.hid (by have := Ngr_8.out.lt; omega); have HNE9_20 : Hid (x7.heap.size ≠ u8.heap.size) := Lib.hid (by have := Ngu_8.out.lt; omega); have HGE9 : Hid (w.heap.size ≤ u8.heap.size) := Lib.hid HF_8.out.size; clear ha9 hza9 hga9 Nga_8 Ngp_8 Ngb_8 Ngq_8 Ngr_8 Ngu_8 HF_8)) | ((with_reducible show wpList _ _ _ (⟨some 11, .alloc 76, _, _, _, _⟩ :: _) _ _); go_must (refine wpList_alloc_row rfl 76 rfl (.agg (zbs 128)) zero76 ?_; intro u10 ha10 hza10 hga10; have Nga_10 := Lib.hid (Nga_9.out.grown hga10 (by simp)); have Ngp_10 := Lib.hid (Ngp_9.out.grown hga10 (by simp)); have Ngb_10 := Lib.hid (Ngb_9.out.grown hga10 (by simp)); have Ngq_10 := Lib.hid (Ngq_9.out.grown hga10 (by simp)); have Ngr_10 := Lib.hid (Ngr_9.out.grown hga10 (by simp)); have Ngu_10 := Lib.hid (Ngu_9.out.grown hga10 (by simp)); have Ngv_10 := Lib.hid (Ngv_9.out.grown hga10 (by simp)); have Ngw_10 : Hid (RAt u10 u9.heap.size [0, 0, 0, 0]) := Lib.hid (zrow (k := 4) ha10); have HF_10 : Hid (Below w.heap.size w u10) := Lib.hid (HF_9.out.grown hga10 HF_9.out.size (by simp)); have HNE10_21 : Hid (w.heap.size ≠ u9.heap.size) := Lib.hid (by have := Nga_9.out.lt; omega); have HNE10_22 : Hid (gp ≠ u9.heap.size) := Lib.hid (by have := Ngp_9.out.lt; omega); have HNE10_23 : Hid (gb ≠ u9.heap.size) := Lib.hid (by have := Ngb_9.out.lt; omega); have HNE10_24 : Hid (gq ≠ u9.heap.size) := Lib.hid (by have := Ngq_9.out.lt; omega); have HNE10_25 : Hid (gr ≠ u9.heap.size) := Lib.hid (by have := Ngr_9.out.lt; omega); have HNE10_26 : Hid (x7.heap.size ≠ u9.heap.size) := Lib.hid (by have := Ngu_9.out.lt; omega); have HNE10_27 : Hid (u8.heap.size ≠ u9.heap.size) := Lib.hid (by have := Ngv_9.out.lt; omega); have HGE10 : Hid (w.heap.size ≤ u9.heap.size) := Lib.hid HF_9.out.size; clear ha10 hza10 hga10 Nga_9 Ngp_9 Ngb_9 Ngq_9 Ngr_9 Ngu_9 Ngv_9 HF_9)) | fail)
  generalize x7.heap.size = gu at *
  generalize u8.heap.size = gv at *
  generalize u9.heap.size = gw at *
  refine (HR1.out _ _ _ Ngu_10.out Ngp_10.out HNE8_11.out.symm).mono ?_
  rintro e11 x11 ⟨rfl, hr11, hk11⟩
  have Nga_11 := Lib.hid (Nga_10.out.keeps hk11 (by have := HNE8_10.out; show ¬ _ = _; omega))
  have Ngp_11 := Lib.hid (Ngp_10.out.keeps hk11 (by have := HNE8_11.out; show ¬ _ = _; omega))
  have Ngb_11 := Lib.hid (Ngb_10.out.keeps hk11 (by have := HNE8_12.out; show ¬ _ = _; omega))
  have Ngq_11 := Lib.hid (Ngq_10.out.keeps hk11 (by have := HNE8_13.out; show ¬ _ = _; omega))
  have Ngr_11 := Lib.hid (Ngr_10.out.keeps hk11 (by have := HNE8_14.out; show ¬ _ = _; omega))
  have Ngu_11 : Hid (RAt x11 gu [px, py, 1, pt]) := Lib.hid hr11
  have Ngv_11 := Lib.hid (Ngv_10.out.keeps hk11 (by have := HNE9_20.out; show ¬ _ = _; omega))
  have Ngw_11 := Lib.hid (Ngw_10.out.keeps hk11 (by have := HNE10_26.out; show ¬ _ = _; omega))
  have HF_11 : Hid (Below w.heap.size w x11) := Lib.hid (HF_10.out.trans (hk11.below HF_10.out.size (fun k hlt => by have := HGE8.out; show ¬ _ = _; omega)))
  clear hr11 hk11 Nga_10 Ngp_10 Ngb_10 Ngq_10 Ngr_10 Ngu_10 Ngv_10 Ngw_10 HF_10
  go_wp2_with fail
  refine (HR2.out _ _ _ Ngv_11.out Ngq_11.out HNE9_18.out.symm).mono ?_
  rintro e12 x12 ⟨rfl, hr12, hk12⟩
  have Nga_12 := Lib.hid (Nga_11.out.keeps hk12 (by have := HNE9_15.out; show ¬ _ = _; omega))
  have Ngp_12 := Lib.hid (Ngp_11.out.keeps hk12 (by have := HNE9_16.out; show ¬ _ = _; omega))
  have Ngb_12 := Lib.hid (Ngb_11.out.keeps hk12 (by have := HNE9_17.out; show ¬ _ = _; omega))
  have Ngq_12 := Lib.hid (Ngq_11.out.keeps hk12 (by have := HNE9_18.out; show ¬ _ = _; omega))
  have Ngr_12 := Lib.hid (Ngr_11.out.keeps hk12 (by have := HNE9_19.out; show ¬ _ = _; omega))
  have Ngu_12 := Lib.hid (Ngu_11.out.keeps hk12 (by have := HNE9_20.out; show ¬ _ = _; omega))
  have Ngv_12 : Hid (RAt x12 gv [qx, qy, 1, qt]) := Lib.hid hr12
  have Ngw_12 := Lib.hid (Ngw_11.out.keeps hk12 (by have := HNE10_27.out; show ¬ _ = _; omega))
  have HF_12 : Hid (Below w.heap.size w x12) := Lib.hid (HF_11.out.trans (hk12.below HF_11.out.size (fun k hlt => by have := HGE9.out; show ¬ _ = _; omega)))
  clear hr12 hk12 Nga_11 Ngp_11 Ngb_11 Ngq_11 Ngr_11 Ngu_11 Ngv_11 Ngw_11 HF_11
  go_wp2_with fail
  refine (HM.out _ _ _ _ _ _ Ngw_12.out Nga_12.out Ngu_12.out Ngb_12.out Ngv_12.out HNE10_21.out HNE10_26.out HNE10_23.out HNE10_27.out).mono ?_
  rintro e13 x13 ⟨X, Y, Z, T, hGD, rfl, hr13, hk13⟩
  have HGD := Lib.hid hGD
  clear hGD
  have Nga_13 := Lib.hid (Nga_12.out.keeps hk13 (by have := HNE10_21.out; show ¬ _ = _; omega))
  have Ngp_13 := Lib.hid (Ngp_12.out.keeps hk13 (by have := HNE10_22.out; show ¬ _ = _; omega))
  have Ngb_13 := Lib.hid (Ngb_12.out.keeps hk13 (by have := HNE10_23.out; show ¬ _ = _; omega))
  have Ngq_13 := Lib.hid (Ngq_12.out.keeps hk13 (by have := HNE10_24.out; show ¬ _ = _; omega))
  have Ngr_13 := Lib.hid (Ngr_12.out.keeps hk13 (by have := HNE10_25.out; show ¬ _ = _; omega))
  have Ngu_13 := Lib.hid (Ngu_12.out.keeps hk13 (by have := HNE10_26.out; show ¬ _ = _; omega))
  have Ngv_13 := Lib.hid (Ngv_12.out.keeps hk13 (by have := HNE10_27.out; show ¬ _ = _; omega))
  have Ngw_13 : Hid (RAt x13 gw [X, Y, Z, T]) := Lib.hid hr13
  have HF_13 : Hid (Below w.heap.size w x13) := Lib.hid (HF_12.out.trans (hk13.below HF_12.out.size (fun k hlt => by have := HGE10.out; show ¬ _ = _; omega)))
  clear hr13 hk13 Nga_12 Ngp_12 Ngb_12 Ngq_12 Ngr_12 Ngu_12 Ngv_12 Ngw_12 HF_12
  go_wp2_with fail
  refine (HP.out X Y Z T HGD.out _ _ Ngw_13.out).mono ?_
  rintro e14 x14 ⟨rfl, hb14⟩
  have Nga_14 := hKq Nga_13 hb14
  have Ngp_14 := hKq Ngp_13 hb14
  have Ngb_14 := hKq Ngb_13 hb14
  have Ngq_14 := hKq Ngq_13 hb14
  have Ngr_14 := hKq Ngr_13 hb14
  have Ngu_14 := hKq Ngu_13 hb14
  have Ngv_14 := hKq Ngv_13 hb14
  have Ngw_14 := hKq Ngw_13 hb14
  have HF_14 := fTq HF_13 hb14
  clear hb14 Nga_13 Ngp_13 Ngb_13 Ngq_13 Ngr_13 Ngu_13 Ngv_13 Ngw_13 HF_13
  go_wp2_with (first | ((with_reducible show wpList _ _ _ (⟨none, .store 35 (.tmp 8) (.tmp 24), _, _, _, _⟩ :: _) _ _); go_must (refine wpList_storeP rfl (.tmp 8) (.tmp 24) rfl (gr) [0, 0] rx ry rfl rfl Ngr_14.out rfl ?_; intro y15 hr15 hg15 hz15; have Nga_15 := hGq Nga_14 hg15 HNE5_6; have Ngp_15 := hGq Ngp_14 hg15 HNE5_7; have Ngb_15 := hGq Ngb_14 hg15 HNE5_8; have Ngq_15 := hGq Ngq_14 hg15 HNE5_9; have Ngr_15 : Hid (RAt y15 gr [rx, ry]) := Lib.hid hr15; have Ngu_15 := hGq Ngu_14 hg15 HNE8_14; have Ngv_15 := hGq Ngv_14 hg15 HNE9_19; have Ngw_15 := hGq Ngw_14 hg15 HNE10_25; have HF_15 : Hid (Below w.heap.size w y15) := Lib.hid (HF_14.out.grown hg15 HF_14.out.size (fun r hr => by injection hr with hr; have := HGE5.out; omega)); clear hr15 hg15 hz15 Nga_14 Ngp_14 Ngb_14 Ngq_14 Ngr_14 Ngu_14 Ngv_14 Ngw_14 HF_14)) | fail)
  go_wp2_with fail
  obtain ⟨tr, htr⟩ := Ngr_15.out
  refine bodyPost_ret (results_cell_row rfl _ _ gr tr (bcs (encs [rx, ry])).toArray _ _ rfl htr Try.underlying35 rfl (by rw [List.size_toArray, bcs_len, encs_len]; exact size35)) rfl ?_
  exact ⟨rfl, HF_15.out⟩

set_option maxHeartbeats 4000000 in
theorem Mul2_bad1 (a b px py qx qy : Nat) (w : World) (C1 : Hid (∀ w, Calls Try.prog 40 #[vR [px, py]] w (Gives (.int .i64 2) w))) (CZ : Hid (∀ w, Calls Try.prog 39 #[] w (Gives (vR [0, 1]) w))) :
    Calls Try.prog 53 #[vN a, vR [px, py], vN b, vR [qx, qy]] w (Gives (vR [0, 1]) w) := by
  have HF_0 : Hid (Below w.heap.size w w) := Lib.hid (Below.refl _ _)
  go_enter Try.func53, Try.ntmps53
  go_wp2_with (first | ((with_reducible show wpList _ _ _ (⟨some 4, .box 23 (.tmp 0), _, _, _, _⟩ :: _) _ _); go_must (refine wpList_box_row rfl 23 (.tmp 0) rfl (bcs (enc a)).toArray rfl ?_; intro u16 ha16 hza16 hga16; have Nga_16 : Hid (RAt u16 w.heap.size [a]) := Lib.hid (NAt.row ⟨_, ha16⟩); have HF_16 : Hid (Below w.heap.size w u16) := Lib.hid (HF_0.out.grown hga16 HF_0.out.size (by simp)); have HGE16 : Hid (w.heap.size ≤ w.heap.size) := Lib.hid HF_0.out.size; clear ha16 hza16 hga16 HF_0)) | ((with_reducible show wpList _ _ _ (⟨some 5, .box 35 (.tmp 1), _, _, _, _⟩ :: _) _ _); go_must (refine wpList_box_row rfl 35 (.tmp 1) rfl (bcs (encs [px, py])).toArray rfl ?_; intro u17 ha17 hza17 hga17; have Nga_17 := Lib.hid (Nga_16.out.grown hga17 (by simp)); have Ngp_17 : Hid (RAt u17 u16.heap.size [px, py]) := Lib.hid (⟨_, ha17⟩); have HF_17 : Hid (Below w.heap.size w u17) := Lib.hid (HF_16.out.grown hga17 HF_16.out.size (by simp)); have HNE17_0 : Hid (w.heap.size ≠ u16.heap.size) := Lib.hid (by have := Nga_16.out.lt; omega); have HGE17 : Hid (w.heap.size ≤ u16.heap.size) := Lib.hid HF_16.out.size; clear ha17 hza17 hga17 Nga_16 HF_16)) | ((with_reducible show wpList _ _ _ (⟨some 6, .box 23 (.tmp 2), _, _, _, _⟩ :: _) _ _); go_must (refine wpList_box_row rfl 23 (.tmp 2) rfl (bcs (enc b)).toArray rfl ?_; intro u18 ha18 hza18 hga18; have Nga_18 := Lib.hid (Nga_17.out.grown hga18 (by simp)); have Ngp_18 := Lib.hid (Ngp_17.out.grown hga18 (by simp)); have Ngb_18 : Hid (RAt u18 u17.heap.size [b]) := Lib.hid (NAt.row ⟨_, ha18⟩); have HF_18 : Hid (Below w.heap.size w u18) := Lib.hid (HF_17.out.grown hga18 HF_17.out.size (by simp)); have HNE18_1 : Hid (w.heap.size ≠ u17.heap.size) := Lib.hid (by have := Nga_17.out.lt; omega); have HNE18_2 : Hid (u16.heap.size ≠ u17.heap.size) := Lib.hid (by have := Ngp_17.out.lt; omega); have HGE18 : Hid (w.heap.size ≤ u17.heap.size) := Lib.hid HF_17.out.size; clear ha18 hza18 hga18 Nga_17 Ngp_17 HF_17)) | ((with_reducible show wpList _ _ _ (⟨some 7, .box 35 (.tmp 3), _, _, _, _⟩ :: _) _ _); go_must (refine wpList_box_row rfl 35 (.tmp 3) rfl (bcs (encs [qx, qy])).toArray rfl ?_; intro u19 ha19 hza19 hga19; have Nga_19 := Lib.hid (Nga_18.out.grown hga19 (by simp)); have Ngp_19 := Lib.hid (Ngp_18.out.grown hga19 (by simp)); have Ngb_19 := Lib.hid (Ngb_18.out.grown hga19 (by simp)); have Ngq_19 : Hid (RAt u19 u18.heap.size [qx, qy]) := Lib.hid (⟨_, ha19⟩); have HF_19 : Hid (Below w.heap.size w u19) := Lib.hid (HF_18.out.grown hga19 HF_18.out.size (by simp)); have HNE19_3 : Hid (w.heap.size ≠ u18.heap.size) := Lib.hid (by have := Nga_18.out.lt; omega); have HNE19_4 : Hid (u16.heap.size ≠ u18.heap.size) := Lib.hid (by have := Ngp_18.out.lt; omega); have HNE19_5 : Hid (u17.heap.size ≠ u18.heap.size) := Lib.hid (by have := Ngb_18.out.lt; omega); have HGE19 : Hid (w.heap.size ≤ u18.heap.size) := Lib.hid HF_18.out.size; clear ha19 hza19 hga19 Nga_18 Ngp_18 Ngb_18 HF_18)) | ((with_reducible show wpList _ _ _ (⟨some 8, .alloc 35, _, _, _, _⟩ :: _) _ _); go_must (refine wpList_alloc_row rfl 35 rfl (.agg (zbs 64)) zero35 ?_; intro u20 ha20 hza20 hga20; have Nga_20 := Lib.hid (Nga_19.out.grown hga20 (by simp)); have Ngp_20 := Lib.hid (Ngp_19.out.grown hga20 (by simp)); have Ngb_20 := Lib.hid (Ngb_19.out.grown hga20 (by simp)); have Ngq_20 := Lib.hid (Ngq_19.out.grown hga20 (by simp)); have Ngr_20 : Hid (RAt u20 u19.heap.size [0, 0]) := Lib.hid (zrow (k := 2) ha20); have HF_20 : Hid (Below w.heap.size w u20) := Lib.hid (HF_19.out.grown hga20 HF_19.out.size (by simp)); have HNE20_6 : Hid (w.heap.size ≠ u19.heap.size) := Lib.hid (by have := Nga_19.out.lt; omega); have HNE20_7 : Hid (u16.heap.size ≠ u19.heap.size) := Lib.hid (by have := Ngp_19.out.lt; omega); have HNE20_8 : Hid (u17.heap.size ≠ u19.heap.size) := Lib.hid (by have := Ngb_19.out.lt; omega); have HNE20_9 : Hid (u18.heap.size ≠ u19.heap.size) := Lib.hid (by have := Ngq_19.out.lt; omega); have HGE20 : Hid (w.heap.size ≤ u19.heap.size) := Lib.hid HF_19.out.size; clear ha20 hza20 hga20 Nga_19 Ngp_19 Ngb_19 Ngq_19 HF_19)) | ((with_reducible show wpList _ _ _ (⟨_, .load 35 (.tmp 5), _, _, _, _⟩ :: _) _ _); go_must (refine wpList_exec rfl (vR [px, py]) (exec_loadP (.tmp 5) rfl (u16.heap.size) px py rfl Ngp_20.out) ?_)) | fail)
  generalize u16.heap.size = gp at *
  generalize u17.heap.size = gb at *
  generalize u18.heap.size = gq at *
  generalize u19.heap.size = gr at *
  refine (C1.out _).mono ?_
  rintro e21 x21 ⟨rfl, hb21⟩
  have Nga_21 := hKq Nga_20 hb21
  have Ngp_21 := hKq Ngp_20 hb21
  have Ngb_21 := hKq Ngb_20 hb21
  have Ngq_21 := hKq Ngq_20 hb21
  have Ngr_21 := hKq Ngr_20 hb21
  have HF_21 := fTq HF_20 hb21
  clear hb21 Nga_20 Ngp_20 Ngb_20 Ngq_20 Ngr_20 HF_20
  go_wp2_with fail
  refine (CZ.out _).mono ?_
  rintro e22 x22 ⟨rfl, hb22⟩
  have Nga_22 := hKq Nga_21 hb22
  have Ngp_22 := hKq Ngp_21 hb22
  have Ngb_22 := hKq Ngb_21 hb22
  have Ngq_22 := hKq Ngq_21 hb22
  have Ngr_22 := hKq Ngr_21 hb22
  have HF_22 := fTq HF_21 hb22
  clear hb22 Nga_21 Ngp_21 Ngb_21 Ngq_21 Ngr_21 HF_21
  go_wp2_with (first | ((with_reducible show wpList _ _ _ (⟨none, .store 35 (.tmp 8) (.tmp 20), _, _, _, _⟩ :: _) _ _); go_must (refine wpList_storeP rfl (.tmp 8) (.tmp 20) rfl (gr) [0, 0] 0 1 rfl rfl Ngr_22.out rfl ?_; intro y23 hr23 hg23 hz23; have Nga_23 := hGq Nga_22 hg23 HNE20_6; have Ngp_23 := hGq Ngp_22 hg23 HNE20_7; have Ngb_23 := hGq Ngb_22 hg23 HNE20_8; have Ngq_23 := hGq Ngq_22 hg23 HNE20_9; have Ngr_23 : Hid (RAt y23 gr [0, 1]) := Lib.hid hr23; have HF_23 : Hid (Below w.heap.size w y23) := Lib.hid (HF_22.out.grown hg23 HF_22.out.size (fun r hr => by injection hr with hr; have := HGE20.out; omega)); clear hr23 hg23 hz23 Nga_22 Ngp_22 Ngb_22 Ngq_22 Ngr_22 HF_22)) | fail)
  go_wp2_with fail
  obtain ⟨tr, htr⟩ := Ngr_23.out
  refine bodyPost_ret (results_cell_row rfl _ _ gr tr (bcs (encs [0, 1])).toArray _ _ rfl htr Try.underlying35 rfl (by rw [List.size_toArray, bcs_len, encs_len]; exact size35)) rfl ?_
  exact ⟨rfl, HF_23.out⟩

set_option maxHeartbeats 4000000 in
theorem Mul2_bad2 (a b px py qx qy : Nat) (w : World) (C1 : Hid (∀ w, Calls Try.prog 40 #[vR [px, py]] w (Gives (.int .i64 0) w))) (C2 : Hid (∀ w, Calls Try.prog 40 #[vR [qx, qy]] w (Gives (.int .i64 2) w))) (CZ : Hid (∀ w, Calls Try.prog 39 #[] w (Gives (vR [0, 1]) w))) :
    Calls Try.prog 53 #[vN a, vR [px, py], vN b, vR [qx, qy]] w (Gives (vR [0, 1]) w) := by
  have HF_0 : Hid (Below w.heap.size w w) := Lib.hid (Below.refl _ _)
  go_enter Try.func53, Try.ntmps53
  go_wp2_with (first | ((with_reducible show wpList _ _ _ (⟨some 4, .box 23 (.tmp 0), _, _, _, _⟩ :: _) _ _); go_must (refine wpList_box_row rfl 23 (.tmp 0) rfl (bcs (enc a)).toArray rfl ?_; intro u24 ha24 hza24 hga24; have Nga_24 : Hid (RAt u24 w.heap.size [a]) := Lib.hid (NAt.row ⟨_, ha24⟩); have HF_24 : Hid (Below w.heap.size w u24) := Lib.hid (HF_0.out.grown hga24 HF_0.out.size (by simp)); have HGE24 : Hid (w.heap.size ≤ w.heap.size) := Lib.hid HF_0.out.size; clear ha24 hza24 hga24 HF_0)) | ((with_reducible show wpList _ _ _ (⟨some 5, .box 35 (.tmp 1), _, _, _, _⟩ :: _) _ _); go_must (refine wpList_box_row rfl 35 (.tmp 1) rfl (bcs (encs [px, py])).toArray rfl ?_; intro u25 ha25 hza25 hga25; have Nga_25 := Lib.hid (Nga_24.out.grown hga25 (by simp)); have Ngp_25 : Hid (RAt u25 u24.heap.size [px, py]) := Lib.hid (⟨_, ha25⟩); have HF_25 : Hid (Below w.heap.size w u25) := Lib.hid (HF_24.out.grown hga25 HF_24.out.size (by simp)); have HNE25_0 : Hid (w.heap.size ≠ u24.heap.size) := Lib.hid (by have := Nga_24.out.lt; omega); have HGE25 : Hid (w.heap.size ≤ u24.heap.size) := Lib.hid HF_24.out.size; clear ha25 hza25 hga25 Nga_24 HF_24)) | ((with_reducible show wpList _ _ _ (⟨some 6, .box 23 (.tmp 2), _, _, _, _⟩ :: _) _ _); go_must (refine wpList_box_row rfl 23 (.tmp 2) rfl (bcs (enc b)).toArray rfl ?_; intro u26 ha26 hza26 hga26; have Nga_26 := Lib.hid (Nga_25.out.grown hga26 (by simp)); have Ngp_26 := Lib.hid (Ngp_25.out.grown hga26 (by simp)); have Ngb_26 : Hid (RAt u26 u25.heap.size [b]) := Lib.hid (NAt.row ⟨_, ha26⟩); have HF_26 : Hid (Below w.heap.size w u26) := Lib.hid (HF_25.out.grown hga26 HF_25.out.size (by simp)); have HNE26_1 : Hid (w.heap.size ≠ u25.heap.size) := Lib.hid (by have := Nga_25.out.lt; omega); have HNE26_2 : Hid (u24.heap.size ≠ u25.heap.size) := Lib.hid (by have := Ngp_25.out.lt; omega); have HGE26 : Hid (w.heap.size ≤ u25.heap.size) := Lib.hid HF_25.out.size; clear ha26 hza26 hga26 Nga_25 Ngp_25 HF_25)) | ((with_reducible show wpList _ _ _ (⟨some 7, .box 35 (.tmp 3), _, _, _, _⟩ :: _) _ _); go_must (refine wpList_box_row rfl 35 (.tmp 3) rfl (bcs (encs [qx, qy])).toArray rfl ?_; intro u27 ha27 hza27 hga27; have Nga_27 := Lib.hid (Nga_26.out.grown hga27 (by simp)); have Ngp_27 := Lib.hid (Ngp_26.out.grown hga27 (by simp)); have Ngb_27 := Lib.hid (Ngb_26.out.grown hga27 (by simp)); have Ngq_27 : Hid (RAt u27 u26.heap.size [qx, qy]) := Lib.hid (⟨_, ha27⟩); have HF_27 : Hid (Below w.heap.size w u27) := Lib.hid (HF_26.out.grown hga27 HF_26.out.size (by simp)); have HNE27_3 : Hid (w.heap.size ≠ u26.heap.size) := Lib.hid (by have := Nga_26.out.lt; omega); have HNE27_4 : Hid (u24.heap.size ≠ u26.heap.size) := Lib.hid (by have := Ngp_26.out.lt; omega); have HNE27_5 : Hid (u25.heap.size ≠ u26.heap.size) := Lib.hid (by have := Ngb_26.out.lt; omega); have HGE27 : Hid (w.heap.size ≤ u26.heap.size) := Lib.hid HF_26.out.size; clear ha27 hza27 hga27 Nga_26 Ngp_26 Ngb_26 HF_26)) | ((with_reducible show wpList _ _ _ (⟨some 8, .alloc 35, _, _, _, _⟩ :: _) _ _); go_must (refine wpList_alloc_row rfl 35 rfl (.agg (zbs 64)) zero35 ?_; intro u28 ha28 hza28 hga28; have Nga_28 := Lib.hid (Nga_27.out.grown hga28 (by simp)); have Ngp_28 := Lib.hid (Ngp_27.out.grown hga28 (by simp)); have Ngb_28 := Lib.hid (Ngb_27.out.grown hga28 (by simp)); have Ngq_28 := Lib.hid (Ngq_27.out.grown hga28 (by simp)); have Ngr_28 : Hid (RAt u28 u27.heap.size [0, 0]) := Lib.hid (zrow (k := 2) ha28); have HF_28 : Hid (Below w.heap.size w u28) := Lib.hid (HF_27.out.grown hga28 HF_27.out.size (by simp)); have HNE28_6 : Hid (w.heap.size ≠ u27.heap.size) := Lib.hid (by have := Nga_27.out.lt; omega); have HNE28_7 : Hid (u24.heap.size ≠ u27.heap.size) := Lib.hid (by have := Ngp_27.out.lt; omega); have HNE28_8 : Hid (u25.heap.size ≠ u27.heap.size) := Lib.hid (by have := Ngb_27.out.lt; omega); have HNE28_9 : Hid (u26.heap.size ≠ u27.heap.size) := Lib.hid (by have := Ngq_27.out.lt; omega); have HGE28 : Hid (w.heap.size ≤ u27.heap.size) := Lib.hid HF_27.out.size; clear ha28 hza28 hga28 Nga_27 Ngp_27 Ngb_27 Ngq_27 HF_27)) | ((with_reducible show wpList _ _ _ (⟨_, .load 35 (.tmp 5), _, _, _, _⟩ :: _) _ _); go_must (refine wpList_exec rfl (vR [px, py]) (exec_loadP (.tmp 5) rfl (u24.heap.size) px py rfl Ngp_28.out) ?_)) | fail)
  generalize u24.heap.size = gp at *
  generalize u25.heap.size = gb at *
  generalize u26.heap.size = gq at *
  generalize u27.heap.size = gr at *
  refine (C1.out _).mono ?_
  rintro e29 x29 ⟨rfl, hb29⟩
  have Nga_29 := hKq Nga_28 hb29
  have Ngp_29 := hKq Ngp_28 hb29
  have Ngb_29 := hKq Ngb_28 hb29
  have Ngq_29 := hKq Ngq_28 hb29
  have Ngr_29 := hKq Ngr_28 hb29
  have HF_29 := fTq HF_28 hb29
  clear hb29 Nga_28 Ngp_28 Ngb_28 Ngq_28 Ngr_28 HF_28
  go_wp2_with (first | ((with_reducible show wpList _ _ _ (⟨_, .load 35 (.tmp 7), _, _, _, _⟩ :: _) _ _); go_must (refine wpList_exec rfl (vR [qx, qy]) (exec_loadP (.tmp 7) rfl (gq) qx qy rfl Ngq_29.out) ?_)) | fail)
  refine (C2.out _).mono ?_
  rintro e30 x30 ⟨rfl, hb30⟩
  have Nga_30 := hKq Nga_29 hb30
  have Ngp_30 := hKq Ngp_29 hb30
  have Ngb_30 := hKq Ngb_29 hb30
  have Ngq_30 := hKq Ngq_29 hb30
  have Ngr_30 := hKq Ngr_29 hb30
  have HF_30 := fTq HF_29 hb30
  clear hb30 Nga_29 Ngp_29 Ngb_29 Ngq_29 Ngr_29 HF_29
  go_wp2_with fail
  refine (CZ.out _).mono ?_
  rintro e31 x31 ⟨rfl, hb31⟩
  have Nga_31 := hKq Nga_30 hb31
  have Ngp_31 := hKq Ngp_30 hb31
  have Ngb_31 := hKq Ngb_30 hb31
  have Ngq_31 := hKq Ngq_30 hb31
  have Ngr_31 := hKq Ngr_30 hb31
  have HF_31 := fTq HF_30 hb31
  clear hb31 Nga_30 Ngp_30 Ngb_30 Ngq_30 Ngr_30 HF_30
  go_wp2_with (first | ((with_reducible show wpList _ _ _ (⟨none, .store 35 (.tmp 8) (.tmp 20), _, _, _, _⟩ :: _) _ _); go_must (refine wpList_storeP rfl (.tmp 8) (.tmp 20) rfl (gr) [0, 0] 0 1 rfl rfl Ngr_31.out rfl ?_; intro y32 hr32 hg32 hz32; have Nga_32 := hGq Nga_31 hg32 HNE28_6; have Ngp_32 := hGq Ngp_31 hg32 HNE28_7; have Ngb_32 := hGq Ngb_31 hg32 HNE28_8; have Ngq_32 := hGq Ngq_31 hg32 HNE28_9; have Ngr_32 : Hid (RAt y32 gr [0, 1]) := Lib.hid hr32; have HF_32 : Hid (Below w.heap.size w y32) := Lib.hid (HF_31.out.grown hg32 HF_31.out.size (fun r hr => by injection hr with hr; have := HGE28.out; omega)); clear hr32 hg32 hz32 Nga_31 Ngp_31 Ngb_31 Ngq_31 Ngr_31 HF_31)) | fail)
  go_wp2_with fail
  obtain ⟨tr, htr⟩ := Ngr_32.out
  refine bodyPost_ret (results_cell_row rfl _ _ gr tr (bcs (encs [0, 1])).toArray _ _ rfl htr Try.underlying35 rfl (by rw [List.size_toArray, bcs_len, encs_len]; exact size35)) rfl ?_
  exact ⟨rfl, HF_32.out⟩

set_option maxHeartbeats 4000000 in
theorem PMul_core (a px py rx ry : Nat) (w : World) (CZ : Hid (∀ w, Calls Try.prog 39 #[] w (Gives (vR [0, 1]) w))) (CM : Hid (∀ w, Calls Try.prog 53 #[vN a, vR [px, py], vN 0, vR [0, 1]] w (Gives (vR [rx, ry]) w))) :
    Calls Try.prog 41 #[vN a, vR [px, py]] w (Gives (vR [rx, ry]) w) := by
  have HF_0 : Hid (Below w.heap.size w w) := Lib.hid (Below.refl _ _)
  go_enter Try.func41, Try.ntmps41
  go_wp2_with (first | ((with_reducible show wpList _ _ _ (⟨some 2, .box 23 (.tmp 0), _, _, _, _⟩ :: _) _ _); go_must (refine wpList_box_row rfl 23 (.tmp 0) rfl (bcs (enc a)).toArray rfl ?_; intro u33 ha33 hza33 hga33; have Nga_33 : Hid (RAt u33 w.heap.size [a]) := Lib.hid (NAt.row ⟨_, ha33⟩); have HF_33 : Hid (Below w.heap.size w u33) := Lib.hid (HF_0.out.grown hga33 HF_0.out.size (by simp)); have HGE33 : Hid (w.heap.size ≤ w.heap.size) := Lib.hid HF_0.out.size; clear ha33 hza33 hga33 HF_0)) | ((with_reducible show wpList _ _ _ (⟨some 3, .box 35 (.tmp 1), _, _, _, _⟩ :: _) _ _); go_must (refine wpList_box_row rfl 35 (.tmp 1) rfl (bcs (encs [px, py])).toArray rfl ?_; intro u34 ha34 hza34 hga34; have Nga_34 := Lib.hid (Nga_33.out.grown hga34 (by simp)); have Ngp_34 : Hid (RAt u34 u33.heap.size [px, py]) := Lib.hid (⟨_, ha34⟩); have HF_34 : Hid (Below w.heap.size w u34) := Lib.hid (HF_33.out.grown hga34 HF_33.out.size (by simp)); have HNE34_0 : Hid (w.heap.size ≠ u33.heap.size) := Lib.hid (by have := Nga_33.out.lt; omega); have HGE34 : Hid (w.heap.size ≤ u33.heap.size) := Lib.hid HF_33.out.size; clear ha34 hza34 hga34 Nga_33 HF_33)) | ((with_reducible show wpList _ _ _ (⟨some 4, .alloc 35, _, _, _, _⟩ :: _) _ _); go_must (refine wpList_alloc_row rfl 35 rfl (.agg (zbs 64)) zero35 ?_; intro u35 ha35 hza35 hga35; have Nga_35 := Lib.hid (Nga_34.out.grown hga35 (by simp)); have Ngp_35 := Lib.hid (Ngp_34.out.grown hga35 (by simp)); have Ngr_35 : Hid (RAt u35 u34.heap.size [0, 0]) := Lib.hid (zrow (k := 2) ha35); have HF_35 : Hid (Below w.heap.size w u35) := Lib.hid (HF_34.out.grown hga35 HF_34.out.size (by simp)); have HNE35_1 : Hid (w.heap.size ≠ u34.heap.size) := Lib.hid (by have := Nga_34.out.lt; omega); have HNE35_2 : Hid (u33.heap.size ≠ u34.heap.size) := Lib.hid (by have := Ngp_34.out.lt; omega); have HGE35 : Hid (w.heap.size ≤ u34.heap.size) := Lib.hid HF_34.out.size; clear ha35 hza35 hga35 Nga_34 Ngp_34 HF_34)) | fail)
  generalize u33.heap.size = gp at *
  generalize u34.heap.size = gr at *
  have HLT36_0 := lR Nga_35
  have HLT36_1 := lR Ngp_35
  have HLT36_2 := lR Ngr_35
  have HLO36 : Hid (w.heap.size ≤ u35.heap.size) := Lib.hid HF_35.out.size
  refine region_split (fun a' W => RAt W w.heap.size [a] ∧ RAt W gp [px, py] ∧ RAt W gr [rx, ry] ∧ Below w.heap.size w W ∧ a' = ⟨#[vN a, vR [px, py], .pointer (some ⟨w.heap.size, 0, none⟩), .pointer (some ⟨gp, 0, none⟩), .pointer (some ⟨gr, 0, none⟩), vN a, vR [px, py], vN 0, vR [0, 1], vR [rx, ry]], []⟩) ?_ ?_
  · refine startW (fun j => j == 5) (u35.heap.size) (by kernel_rfl) ?_
    obtain ⟨D36, hD36⟩ : ∃ D, D = u35.drew := ⟨_, rfl⟩
    rw [← hD36]
    have HL_36 := dLq hD36
    have Nga_36 := dRq hD36 Nga_35
    have Ngp_36 := dRq hD36 Ngp_35
    have Ngr_36 := dRq hD36 Ngr_35
    have HF_36 : Hid (Below w.heap.size w D36) := Lib.hid (by rw [hD36]; exact below_drewN' HF_35.out 1)
    clear hD36 Nga_35 Ngp_35 Ngr_35 HF_35
    refine takeT (i := 0) (oi := oET0) (vN a) rfl (by kernel_rfl) (by kernel_rfl) (by kernel_rfl) (by kernel_rfl) (by kernel_rfl) (fun _ _ _ h => nomatch h.1) (by rfl) (fun w' hk => exec_loadF (.tmp 2) rfl (w.heap.size) 0 0 rfl [a] a rfl (Nga_36.out.below hk HLT36_0.out) rfl) ?_
    simp only [oET0, Act.put, zA, zB, zC]
    refine takeT (i := 1) (oi := oET1) (vR [px, py]) rfl (by kernel_rfl) (by kernel_rfl) (by kernel_rfl) (by kernel_rfl) (by kernel_rfl) (fun _ _ _ h => nomatch h.1) (by rfl) (fun w' hk => exec_loadP (.tmp 3) rfl (gp) px py rfl (Ngp_36.out.below hk HLT36_1.out)) ?_
    simp only [oET1, Act.put, zA, zB, zC]
    refine tA (i := 2) (oi := oET2) ?_
    refine ⟨vN 0, fun w' => exec_build0 rfl, ?_⟩
    simp only [oET2, Act.put, zA, zB, zC]
    refine callW (i := 3) (oi := oET3) rfl (by kernel_rfl) (by rfl) (exec_callL 39 [] #[] rfl [] rfl (CG39 _)) ((CZ.out D36).mono ?_)
    rintro e37 W37 ⟨rfl, hb37⟩
    refine ⟨_, rfl, fun _ => hb37.mono HL_36.out, ?_⟩
    have Nga_37 := hKq Nga_36 hb37
    have Ngp_37 := hKq Ngp_36 hb37
    have Ngr_37 := hKq Ngr_36 hb37
    have HF_37 := fTq HF_36 hb37
    have HL_37 := lT HL_36 hb37
    clear hb37 HL_36 Nga_36 Ngp_36 Ngr_36 HF_36
    simp only [oET3, Act.put, zA, zB, zC]
    refine callW (i := 4) (oi := oET4) rfl (by kernel_rfl) (by rfl) (exec_callL 53 [.tmp 5, .tmp 6, .tmp 7, .tmp 8] #[23, 35, 23, 35] rfl [vN a, vR [px, py], vN 0, vR [0, 1]] rfl (CG53 _)) ((CM.out W37).mono ?_)
    rintro e38 W38 ⟨rfl, hb38⟩
    refine ⟨_, rfl, fun _ => hb38.mono HL_37.out, ?_⟩
    have Nga_38 := hKq Nga_37 hb38
    have Ngp_38 := hKq Ngp_37 hb38
    have Ngr_38 := hKq Ngr_37 hb38
    have HF_38 := fTq HF_37 hb38
    have HL_38 := lT HL_37 hb38
    clear hb38 HL_37 Nga_37 Ngp_37 Ngr_37 HF_37
    simp only [oET4, Act.put, zA, zB, zC]
    refine storeW_P (i := 5) (oi := oET5) rfl (by kernel_rfl) (by rfl) (.tmp 4) (.tmp 9) rfl (gr) [0, 0] rx ry rfl rfl Ngr_38.out rfl rfl ?_
    intro W39 hr39 hg39 hz39
    simp only [oET5, Act.put, zA, zB, zC]
    have Nga_39 := hGq Nga_38 hg39 HNE35_1
    have Ngp_39 := hGq Ngp_38 hg39 HNE35_2
    have Ngr_39 : Hid (RAt W39 gr [rx, ry]) := Lib.hid hr39
    have HF_39 : Hid (Below w.heap.size w W39) := Lib.hid (HF_38.out.grown hg39 HF_38.out.size (fun r hr => by injection hr with hr; have := HGE35.out; omega))
    have HL_39 := lG HL_38 hg39
    clear hr39 hg39 hz39 HL_38 Nga_38 Ngp_38 Ngr_38 HF_38
    refine doneW (by kernel_rfl) ⟨rfl, ?_⟩ _
    exact ⟨Nga_39.out, Ngp_39.out, Ngr_39.out, HF_39.out, rfl⟩
  rintro a' v40 ⟨h0, h1, h2, hF, rfl⟩
  have Nga_40 := Lib.hid h0
  have Ngp_40 := Lib.hid h1
  have Ngr_40 := Lib.hid h2
  have HF_40 := Lib.hid hF
  clear h0 h1 h2 hF HLT36_0 HLT36_1 HLT36_2 HLO36 Nga_35 Ngp_35 Ngr_35 HF_35
  go_wp2_with fail
  obtain ⟨tr, htr⟩ := Ngr_40.out
  refine bodyPost_ret (results_cell_row rfl _ _ gr tr (bcs (encs [rx, ry])).toArray _ _ rfl htr Try.underlying35 rfl (by rw [List.size_toArray, bcs_len, encs_len]; exact size35)) rfl ?_
  exact ⟨rfl, HF_40.out⟩

set_option maxHeartbeats 4000000 in
theorem Small_core (px py rx ry : Nat) (b : Bool) (w : World) (C1 : Hid (∀ w, Calls Try.prog 40 #[vR [px, py]] w (Gives (.int .i64 0) w))) (CM : Hid (∀ w, Calls Try.prog 41 #[vN 8, vR [px, py]] w (Gives (vR [rx, ry]) w))) (CZ : Hid (∀ w, Calls Try.prog 39 #[] w (Gives (vR [0, 1]) w)))
    (HE : Hid (∀ w, (Op.equalIn 10000 35 (vR [rx, ry]) (vR [0, 1])).run Try.prog w = .ok b w)) :
    Calls Try.prog 43 #[vR [px, py]] w (Gives (.bool b) w) := by
  have HF_0 : Hid (Below w.heap.size w w) := Lib.hid (Below.refl _ _)
  go_enter Try.func43, Try.ntmps43
  go_wp2_with (first | ((with_reducible show wpList _ _ _ (⟨some 1, .box 35 (.tmp 0), _, _, _, _⟩ :: _) _ _); go_must (refine wpList_box_row rfl 35 (.tmp 0) rfl (bcs (encs [px, py])).toArray rfl ?_; intro u41 ha41 hza41 hga41; have Ngp_41 : Hid (RAt u41 w.heap.size [px, py]) := Lib.hid (⟨_, ha41⟩); have HF_41 : Hid (Below w.heap.size w u41) := Lib.hid (HF_0.out.grown hga41 HF_0.out.size (by simp)); have HGE41 : Hid (w.heap.size ≤ w.heap.size) := Lib.hid HF_0.out.size; clear ha41 hza41 hga41 HF_0)) | ((with_reducible show wpList _ _ _ (⟨_, .load 35 (.tmp 1), _, _, _, _⟩ :: _) _ _); go_must (refine wpList_exec rfl (vR [px, py]) (exec_loadP (.tmp 1) rfl (w.heap.size) px py rfl Ngp_41.out) ?_)) | fail)
  refine (C1.out _).mono ?_
  rintro e42 x42 ⟨rfl, hb42⟩
  have Ngp_42 := hKq Ngp_41 hb42
  have HF_42 := fTq HF_41 hb42
  clear hb42 Ngp_41 HF_41
  go_wp2_with (first | ((with_reducible show wpList _ _ _ (⟨_, .build 23 _, _, _, _, _⟩ :: _) _ _); go_must (refine wpList_exec rfl (vN 8) (exec_buildc rfl (by kernel_rfl)) ?_)) | ((with_reducible show wpList _ _ _ (⟨_, .load 35 (.tmp 1), _, _, _, _⟩ :: _) _ _); go_must (refine wpList_exec rfl (vR [px, py]) (exec_loadP (.tmp 1) rfl (w.heap.size) px py rfl Ngp_42.out) ?_)) | fail)
  refine (CM.out _).mono ?_
  rintro e43 x43 ⟨rfl, hb43⟩
  have Ngp_43 := hKq Ngp_42 hb43
  have HF_43 := fTq HF_42 hb43
  clear hb43 Ngp_42 HF_42
  go_wp2_with fail
  refine (CZ.out _).mono ?_
  rintro e44 x44 ⟨rfl, hb44⟩
  have Ngp_44 := hKq Ngp_43 hb44
  have HF_44 := fTq HF_43 hb44
  clear hb44 Ngp_43 HF_43
  go_wp2_with (first | ((with_reducible show wpList _ _ _ (⟨_, .binOp .eql 35 (.tmp 9) (.tmp 10) 35, _, _, _, _⟩ :: _) _ _); go_must (refine wpList_exec rfl (.bool b) (exec_eqP (m := rx) (n := ry) (m' := 0) (n' := 1) (.tmp 9) (.tmp 10) rfl rfl rfl (HE.out _)) ?_)) | fail)
  go_ret
  exact ⟨rfl, HF_44.out⟩

set_option maxHeartbeats 4000000 in
theorem Small_bad (px py : Nat) (w : World) (C1 : Hid (∀ w, Calls Try.prog 40 #[vR [px, py]] w (Gives (.int .i64 2) w))) :
    Calls Try.prog 43 #[vR [px, py]] w (Gives (.bool false) w) := by
  have HF_0 : Hid (Below w.heap.size w w) := Lib.hid (Below.refl _ _)
  go_enter Try.func43, Try.ntmps43
  go_wp2_with (first | ((with_reducible show wpList _ _ _ (⟨some 1, .box 35 (.tmp 0), _, _, _, _⟩ :: _) _ _); go_must (refine wpList_box_row rfl 35 (.tmp 0) rfl (bcs (encs [px, py])).toArray rfl ?_; intro u45 ha45 hza45 hga45; have Ngp_45 : Hid (RAt u45 w.heap.size [px, py]) := Lib.hid (⟨_, ha45⟩); have HF_45 : Hid (Below w.heap.size w u45) := Lib.hid (HF_0.out.grown hga45 HF_0.out.size (by simp)); have HGE45 : Hid (w.heap.size ≤ w.heap.size) := Lib.hid HF_0.out.size; clear ha45 hza45 hga45 HF_0)) | ((with_reducible show wpList _ _ _ (⟨_, .load 35 (.tmp 1), _, _, _, _⟩ :: _) _ _); go_must (refine wpList_exec rfl (vR [px, py]) (exec_loadP (.tmp 1) rfl (w.heap.size) px py rfl Ngp_45.out) ?_)) | fail)
  refine (C1.out _).mono ?_
  rintro e46 x46 ⟨rfl, hb46⟩
  have Ngp_46 := hKq Ngp_45 hb46
  have HF_46 := fTq HF_45 hb46
  clear hb46 Ngp_45 HF_45
  go_wp2
  go_ret
  exact ⟨rfl, HF_46.out⟩

theorem vZ : vPt EC.zero = vR [0, 1] := by unfold vPt Ed.zero; rw [v1]; rfl
theorem pMul2 (a b : Nat) (ha : a < TT) (hb : b < TT) (P Q : EC.Pt) (w : World) : Calls Try.prog 53 #[vN a, vPt P, vN b, vPt Q] w (Gives (vPt (EC.add (EC.sm P a) (EC.sm Q b))) w) := by
  have e : EC.two P Q a b 0 = EC.add (EC.sm P a) (EC.sm Q b) := by unfold Ed.two; rw [Nat.pow_zero, Nat.div_one, Nat.div_one]
  rw [← e]
  refine Mul2_core a b _ _ _ _ (P.1.1 * P.1.2).val (Q.1.1 * Q.1.2).val _ _ (fun X Y Z T => ∃ R : X4, R.IsP (EC.two P Q a b 0) ∧ R.l = [X, Y, Z, T]) w (Lib.hid (pCheck P)) (Lib.hid (pCheck Q))
    (Lib.hid fun w g g1 h0 h1 n1 => eread_any P.1.1 P.1.2 0 0 0 0 w g g1 h0 h1 n1) (Lib.hid fun w g g1 h0 h1 n1 => eread_any Q.1.1 Q.1.2 0 0 0 0 w g g1 h0 h1 n1)
    (Lib.hid fun w g ga gp gb gq h0 h1 h2 h3 h4 n1 n2 n3 n4 => ?_) (Lib.hid fun X Y Z T hG w g hr => ?_)
  · refine (mul2_any P Q (X4.of P) (X4.of Q) ⟨0, 0, 0, 0⟩ a b w g ga gp gb gq (Lib.hid (X4.IsP.of P)) (Lib.hid (X4.IsP.of Q)) (Lib.hid ha) (Lib.hid hb) (Lib.hid h0) (Lib.hid h1) (Lib.hid (by rw [of_l]; exact h2)) (Lib.hid h3) (Lib.hid (by rw [of_l]; exact h4)) (Lib.hid n1) (Lib.hid n2) (Lib.hid n3) (Lib.hid n4)).mono ?_
    rintro e w' ⟨R, hR, hs⟩
    exact ⟨_, _, _, _, ⟨R, hR, rfl⟩, hs⟩
  · obtain ⟨R, hR, hl⟩ := hG
    rw [← hl] at hr
    exact hR.point w g hr
theorem pMul (a : Nat) (ha : a < TT) (P : EC.Pt) (w : World) : Calls Try.prog 41 #[vN a, vPt P] w (Gives (vPt (EC.sm P a)) w) := by
  have h : ∀ w, Calls Try.prog 53 #[vN a, vPt P, vN 0, vR [0, 1]] w (Gives (vPt (EC.sm P a)) w) := fun w => by
    have h := pMul2 a 0 ha (by unfold TT; omega) P EC.zero w
    rw [EC.sm_zero, EC.add_zero, vZ] at h
    exact h
  exact PMul_core a _ _ _ _ w (Lib.hid Zero_any) (Lib.hid h)
theorem pSmall (P : EC.Pt) (w : World) : Calls Try.prog 43 #[vPt P] w (Gives (.bool (decide (EC.sm P 8 = EC.zero))) w) :=
  Small_core _ _ _ _ _ w (Lib.hid (pCheck P)) (Lib.hid (pMul 8 (by unfold TT; omega) P)) (Lib.hid Zero_any) (Lib.hid fun w => by rw [← vZ]; exact pEq _ _ w)
end Go.Proofs.Ytgdimnbdnepbgaa
/- Multiples of the base point, worked out by the kernel. No statement is proved here. -/
namespace Go.Proofs.Ytgdimnbdnepbgaa
open Go.RowKit
set_option linter.unusedVariables false
set_option maxRecDepth 40000
set_option linter.unusedSimpArgs false

/-- Four numbers. -/
structure Q4 where
  x : Nat
  y : Nat
  z : Nat
  t : Nat
def dblC {α : Type} (x y z : Nat) (f : Nat → Nat → Nat → Nat → α) : α :=
  stric (x * x % PP) fun xx => stric (y * y % PP) fun yy => stric (z * z % PP) fun zz => stric (x * y % PP) fun xy => stric ((xy + xy) % PP) fun xx2 => stric ((yy + xx) % PP) fun s =>
  stric ((PP - xx + yy) % PP) fun ox => stric ((zz + zz) % PP) fun z2 => stric ((PP - ox + z2) % PP) fun oy =>
  stric (xx2 * oy % PP) fun X => stric (s * ox % PP) fun Y => stric (ox * oy % PP) fun Z => stric (xx2 * s % PP) fun T => f X Y Z T
def addC {α : Type} (x y z t : Nat) (bx by' bt : Nat) (f : Nat → Nat → Nat → Nat → α) : α :=
  stric (t * bt % PP) fun tt => stric (dN * tt % PP) fun d => stric (x * by' % PP) fun a1 => stric (y * bx % PP) fun a2 => stric ((a1 + a2) % PP) fun xx =>
  stric (y * by' % PP) fun b1 => stric (x * bx % PP) fun b2 => stric ((b1 + b2) % PP) fun yy => stric ((z + d) % PP) fun ox => stric ((PP - d + z) % PP) fun oy =>
  stric (xx * oy % PP) fun X => stric (yy * ox % PP) fun Y => stric (ox * oy % PP) fun Z => stric (xx * yy % PP) fun T => f X Y Z T
/-- Bits i - 1 .. 0 of k. -/
def go (k bx by' bt : Nat) : Nat → Nat → Nat → Nat → Nat → Q4
  | 0, x, y, z, t => ⟨x, y, z, t⟩
  | i + 1, x, y, z, t => dblC x y z fun X Y Z T => stric (k / 2 ^ i % 2) fun b => if b = 1 then addC X Y Z T bx by' bt (go k bx by' bt i) else go k bx by' bt i X Y Z T
theorem dblC_eq {α : Type} (R : X4) (f : Nat → Nat → Nat → Nat → α) : dblC R.x.val R.y.val R.z.val f = f R.dbl.x.val R.dbl.y.val R.dbl.z.val R.dbl.t.val := by
  unfold dblC
  simp only [stric_eq]
  rfl
theorem one_mulF (z : Fin PP) : z * 1 = z := by grind
theorem addC_eq {α : Type} (R : X4) (P : EC.Pt) (f : Nat → Nat → Nat → Nat → α) : addC R.x.val R.y.val R.z.val R.t.val P.1.1.val P.1.2.val (P.1.1 * P.1.2).val f = f (R.sum (X4.of P)).x.val (R.sum (X4.of P)).y.val (R.sum (X4.of P)).z.val (R.sum (X4.of P)).t.val := by
  unfold addC
  simp only [stric_eq]
  unfold X4.sum X4.of
  simp only [one_mulF]
  rfl
theorem go_is (k : Nat) (P : EC.Pt) : ∀ (i : Nat) (R : X4), R.IsP (EC.sm P (k / 2 ^ i)) → ∃ S : X4, S.IsP (EC.sm P k) ∧ go k P.1.1.val P.1.2.val (P.1.1 * P.1.2).val i R.x.val R.y.val R.z.val R.t.val = ⟨S.x.val, S.y.val, S.z.val, S.t.val⟩
  | 0, R, h => ⟨R, by rw [Nat.pow_zero, Nat.div_one] at h; exact h, rfl⟩
  | i + 1, R, h => by
    have e : k / 2 ^ i = 2 * (k / 2 ^ (i + 1)) + k / 2 ^ i % 2 := by rw [Nat.pow_succ, ← Nat.div_div_eq_div_mul]; omega
    have hd := h.dbl
    rw [← EC.sm_two] at hd
    unfold go
    rw [dblC_eq]
    simp only [stric_eq]
    by_cases hb : k / 2 ^ i % 2 = 1
    · rw [if_pos hb, addC_eq]
      refine go_is k P i _ ?_
      rw [e, hb, EC.sm_add, EC.sm_one]
      exact hd.add (X4.IsP.of P)
    · rw [if_neg hb]
      refine go_is k P i _ ?_
      rw [e, show k / 2 ^ i % 2 = 0 from by omega, Nat.add_zero]
      exact hd
theorem go_all (k : Nat) (P : EC.Pt) (i : Nat) (hk : k / 2 ^ i = 0) : ∃ S : X4, S.IsP (EC.sm P k) ∧ go k P.1.1.val P.1.2.val (P.1.1 * P.1.2).val i 0 1 1 0 = ⟨S.x.val, S.y.val, S.z.val, S.t.val⟩ := by
  have h := go_is k P i (X4.of EC.zero) (by rw [hk]; exact X4.IsP.of _)
  have e0 : (X4.of EC.zero).x.val = 0 := rfl
  have e1 : (X4.of EC.zero).y.val = 1 := v1
  have e2 : (X4.of EC.zero).z.val = 1 := v1
  have e3 : (X4.of EC.zero).t.val = 0 := by show ((0 : Fin PP) * 1).val = 0; rw [one_mulF]; rfl
  rw [e0, e1, e2, e3] at h
  exact h
theorem isP_zero {S : X4} {P : EC.Pt} (h : S.IsP P) : P = EC.zero ↔ S.x = 0 ∧ S.y = S.z := by
  obtain ⟨h0, h1, h2, _⟩ := h
  constructor
  · rintro rfl
    refine ⟨by rw [h1]; show (0 : Fin PP) * S.z = 0; grind, by rw [h2]; show (1 : Fin PP) * S.z = S.z; grind⟩
  · rintro ⟨e1, e2⟩
    refine Subtype.ext (Prod.ext ?_ ?_)
    · show P.1.1 = 0
      have : S.z * P.1.1 = S.z * 0 := by rw [h1] at e1; grind
      exact EC.cancel h0 this
    · show P.1.2 = 1
      have : S.z * P.1.2 = S.z * 1 := by rw [h2] at e2; grind
      exact EC.cancel h0 this
def lN : Nat := 7237005577332262213973186563042994240857116359379907606001950938285454250989
def btN : Nat := bxN * byN % PP
def zer (q : Q4) : Bool := q.x == 0 && q.y == q.z
theorem zer_iff {S : X4} {P : EC.Pt} (h : S.IsP P) (q : Q4) (e : q = ⟨S.x.val, S.y.val, S.z.val, S.t.val⟩) : zer q = true ↔ P = EC.zero := by
  rw [isP_zero h, e]
  unfold zer
  simp only [Bool.and_eq_true, beq_iff_eq]
  constructor
  · rintro ⟨h1, h2⟩
    exact ⟨Fin.ext h1, Fin.ext h2⟩
  · rintro ⟨h1, h2⟩
    exact ⟨by rw [h1]; rfl, by rw [h2]⟩
theorem goL : zer (go lN bxN byN btN 253 0 1 1 0) = true := by decide +kernel
theorem go8 : zer (go 8 bxN byN btN 4 0 1 1 0) = false := by decide +kernel
theorem sm_L : EC.sm bP lN = EC.zero := by
  obtain ⟨S, h, e⟩ := go_all lN bP 253 (by decide +kernel)
  exact (zer_iff h _ e).1 goL
theorem sm_8 : EC.sm bP 8 ≠ EC.zero := by
  obtain ⟨S, h, e⟩ := go_all 8 bP 4 (by decide)
  intro hz
  have := (zer_iff h _ e).2 hz
  rw [show go 8 bP.1.1.val bP.1.2.val (bP.1.1 * bP.1.2).val 4 0 1 1 0 = go 8 bxN byN btN 4 0 1 1 0 from rfl, go8] at this
  cases this
end Go.Proofs.Ytgdimnbdnepbgaa
/- Numbers of bytes: parts, order, sums and products by bytes. No statement is proved here. -/
namespace Go.Proofs.Ytgdimnbdnepbgaa
open Go.RowKit
set_option linter.unusedVariables false
set_option linter.unusedSimpArgs false

theorem leb_take_succ : ∀ (l : List UInt8) (n : Nat), leb (l.take (n + 1)) = leb (l.take n) + 256 ^ n * (l.getD n 0).toNat
  | [], n => by simp [leb]
  | b :: t, 0 => by simp [leb]
  | b :: t, n + 1 => by
    rw [List.take_succ_cons, List.take_succ_cons, List.getD_cons_succ]
    simp only [leb]
    rw [leb_take_succ t n, Nat.pow_succ]
    grind
theorem leb_take_all (l : List UInt8) (n : Nat) (h : l.length = n) : leb (l.take n) = leb l := by rw [← h, List.take_length]
theorem take_set_at (l : List UInt8) (n : Nat) (v : UInt8) : (l.set n v).take n = l.take n := List.take_set_of_le (Nat.le_refl n)
theorem leb_take_put (l : List UInt8) (n : Nat) (v : UInt8) (h : n < l.length) : leb ((l.set n v).take (n + 1)) = leb (l.take n) + 256 ^ n * v.toNat := by
  rw [leb_take_succ, take_set_at, List.getD_eq_getElem?_getD, List.getElem?_set_self h]
  rfl
theorem getD_set_above (l : List UInt8) (n j : Nat) (v : UInt8) (h : n < j) : (l.set n v).getD j 0 = l.getD j 0 := by
  rw [List.getD_eq_getElem?_getD, List.getD_eq_getElem?_getD, List.getElem?_set_ne (by omega)]
theorem leb_less : ∀ (a b : List UInt8) (k : Nat), a.length = b.length → (∀ j, k < j → (a.getD j 0).toNat = (b.getD j 0).toNat) → (a.getD k 0).toNat < (b.getD k 0).toNat → leb a < leb b
  | [], [], k, _, _, h => by simp at h
  | [], _ :: _, _, h, _, _ => by simp at h
  | _ :: _, [], _, h, _, _ => by simp at h
  | x :: t, y :: u, 0, hl, ha, h => by
    have e : t = u := by
      apply List.ext_getElem (by simpa using hl)
      intro i h1 h2
      have := ha (i + 1) (by omega)
      rw [List.getD_cons_succ, List.getD_cons_succ, List.getD_eq_getElem?_getD, List.getD_eq_getElem?_getD, List.getElem?_eq_getElem h1, List.getElem?_eq_getElem h2] at this
      exact UInt8.toNat_inj.1 this
    rw [List.getD_cons_zero, List.getD_cons_zero] at h
    rw [e]
    simp only [leb]
    omega
  | x :: t, y :: u, k + 1, hl, ha, h => by
    have ih := leb_less t u k (by simpa using hl) (fun j hj => by have := ha (j + 1) (by omega); rwa [List.getD_cons_succ, List.getD_cons_succ] at this) (by rwa [List.getD_cons_succ, List.getD_cons_succ] at h)
    have hx := UInt8.toNat_lt x
    simp only [leb]
    omega
theorem leb_same (a b : List UInt8) (hl : a.length = b.length) (ha : ∀ j, (a.getD j 0).toNat = (b.getD j 0).toNat) : leb a = leb b := by
  have e : a = b := by
    apply List.ext_getElem hl
    intro i h1 h2
    have := ha i
    rw [List.getD_eq_getElem?_getD, List.getD_eq_getElem?_getD, List.getElem?_eq_getElem h1, List.getElem?_eq_getElem h2] at this
    exact UInt8.toNat_inj.1 this
  rw [e]
/-- One byte of a sum. -/
theorem add_step (X A B x y c v d n : Nat) (h : X + 256 ^ n * c = A + B) (e : c + x + y = v + 256 * d) : X + 256 ^ n * v + 256 ^ (n + 1) * d = (A + 256 ^ n * x) + (B + 256 ^ n * y) := by
  have : X + 256 ^ n * v + 256 ^ (n + 1) * d = X + 256 ^ n * (v + 256 * d) := by rw [Nat.pow_succ]; grind
  rw [this, ← e]
  grind
theorem sub_step (X O L o l c v d n : Nat) (h : X + L = O + 256 ^ n * c) (e : v + l + c = o + 256 * d) : X + 256 ^ n * v + (L + 256 ^ n * l) = O + 256 ^ n * o + 256 ^ (n + 1) * d := by
  have : O + 256 ^ n * o + 256 ^ (n + 1) * d = O + 256 ^ n * (o + 256 * d) := by rw [Nat.pow_succ]; grind
  rw [this, ← e]
  grind
theorem leb_halves (l : List UInt8) (n : Nat) : leb l / 2 ^ n = 2 * (leb l / 2 ^ (n + 1)) + bitL l n := by
  rw [← leb_bit, Nat.pow_succ, ← Nat.div_div_eq_div_mul]
  omega
/-- A number of words, the low one first, in bytes. -/
def pval : List Nat → Nat
  | [] => 0
  | b :: t => b + 256 * pval t
theorem pval_set : ∀ (l : List Nat) (j b : Nat), j < l.length → pval (l.set j b) + 256 ^ j * l.getD j 0 = pval l + 256 ^ j * b
  | [], j, b, h => by simp at h
  | x :: t, 0, b, h => by simp only [List.set_cons_zero, pval, List.getD_cons_zero]; omega
  | x :: t, j + 1, b, h => by
    have ih := pval_set t j b (by simpa using h)
    simp only [List.set_cons_succ, pval, List.getD_cons_succ, Nat.pow_succ]
    grind
theorem pval_take_succ : ∀ (l : List Nat) (n : Nat), pval (l.take (n + 1)) = pval (l.take n) + 256 ^ n * l.getD n 0
  | [], n => by simp [pval]
  | b :: t, 0 => by simp [pval]
  | b :: t, n + 1 => by
    rw [List.take_succ_cons, List.take_succ_cons, List.getD_cons_succ]
    simp only [pval]
    rw [pval_take_succ t n, Nat.pow_succ]
    grind
theorem pval_zero : ∀ n, pval (List.replicate n 0) = 0
  | 0 => rfl
  | n + 1 => by rw [List.replicate_succ]; simp only [pval]; rw [pval_zero n]
/-- One product more. -/
theorem mul_step (p : List Nat) (A B : List UInt8) (i k : Nat) (hl : p.length = 64) (hi : i < 32) (hk : k < 32)
    (h : pval p = leb (A.take i) * leb B + 256 ^ i * (A.getD i 0).toNat * leb (B.take k)) :
    pval (p.set (i + k) (p.getD (i + k) 0 + (A.getD i 0).toNat * (B.getD k 0).toNat)) = leb (A.take i) * leb B + 256 ^ i * (A.getD i 0).toNat * leb (B.take (k + 1)) := by
  have e := pval_set p (i + k) (p.getD (i + k) 0 + (A.getD i 0).toNat * (B.getD k 0).toNat) (by omega)
  rw [h] at e
  rw [leb_take_succ, Nat.pow_add] at *
  grind
theorem mul_row (A B : List UInt8) (i : Nat) (hB : B.length = 32) : leb (A.take i) * leb B + 256 ^ i * (A.getD i 0).toNat * leb (B.take 32) = leb (A.take (i + 1)) * leb B + 256 ^ (i + 1) * (A.getD (i + 1) 0).toNat * leb (B.take 0) := by
  rw [leb_take_all B 32 hB, leb_take_succ]
  simp only [List.take_zero, leb]
  grind
theorem set_bound (p : List Nat) (j v m m' : Nat) (h : ∀ i, p.getD i 0 ≤ m) (hv : v ≤ m') (hm : m ≤ m') : ∀ i, (p.set j v).getD i 0 ≤ m' := by
  intro i
  rw [List.getD_eq_getElem?_getD]
  by_cases e : j = i
  · subst e
    by_cases hj : j < p.length
    · rw [List.getElem?_set_self hj]; exact hv
    · rw [List.getElem?_eq_none (by rw [List.length_set]; omega)]; exact Nat.zero_le _
  · rw [List.getElem?_set_ne e, ← List.getD_eq_getElem?_getD]
    exact Nat.le_trans (h i) hm
theorem byte_prod (x y : UInt8) : x.toNat * y.toNat ≤ 65025 := Nat.mul_le_mul (show x.toNat ≤ 255 by have := UInt8.toNat_lt x; omega) (show y.toNat ≤ 255 by have := UInt8.toNat_lt y; omega)
/-- The sum of two below L. -/
theorem sumL (a b : Nat) (ha : a < lN) (hb : b < lN) : (a + b) % lN = if a + b < lN then a + b else a + b - lN := by
  split
  · rename_i h; exact Nat.mod_eq_of_lt h
  · rename_i h; rw [Nat.mod_eq_sub_mod (by omega), Nat.mod_eq_of_lt (by omega)]
theorem restL (q b : Nat) : ((q % lN + q % lN) % lN + b) % lN = (2 * q + b) % lN := by
  rw [Nat.two_mul, ← Nat.add_mod]
  exact Nat.mod_add_mod _ _ _
end Go.Proofs.Ytgdimnbdnepbgaa
/- The reference's L. No statement is proved here. -/
namespace Go.Proofs.Ytgdimnbdnepbgaa
open Go.RowKit
set_option linter.unusedVariables false
set_option maxRecDepth 40000
set_option linter.unusedSimpArgs false

set_option maxHeartbeats 1000000 in
theorem rL_any (w : World) : Calls Try.prog 37 #[] w (Gives (vN lN) w) := by
  have HF_0 : Hid (Below w.heap.size w w) := Lib.hid (Below.refl _ _)
  go_enter Try.func37, Try.ntmps37
  go_wp2_with (first | ((with_reducible show wpList _ _ _ (⟨some 0, .alloc 23, _, _, _, _⟩ :: _) _ _); go_must (refine wpList_alloc_row rfl 23 rfl (.agg (zbs 32)) zero23 ?_; intro u1 ha1 hza1 hga1; have Ngr_1 : Hid (RAt u1 w.heap.size [0]) := Lib.hid (zrow (k := 1) ha1); have HF_1 : Hid (Below w.heap.size w u1) := Lib.hid (HF_0.out.grown hga1 HF_0.out.size (by simp)); have HGE1 : Hid (w.heap.size ≤ w.heap.size) := Lib.hid HF_0.out.size; clear ha1 hza1 hga1 HF_0)) | ((with_reducible show wpList _ _ _ (⟨some 1, .build 23 _, _, _, _, _⟩ :: _) _ _); go_must (refine wpList_exec rfl (vN lN) (exec_buildc rfl (by kernel_rfl)) ?_)) | ((with_reducible show wpList _ _ _ (⟨none, .store 23 (.tmp 0) (.tmp 1), _, _, _, _⟩ :: _) _ _); go_must (refine wpList_storeF rfl (.tmp 0) (.tmp 1) rfl (w.heap.size) 0 0 rfl [0] lN rfl rfl Ngr_1.out (show 0 < 1 by omega) ?_; intro y2 hr2 hg2 hz2; have Ngr_2 : Hid (RAt y2 w.heap.size [lN]) := Lib.hid hr2; have HF_2 : Hid (Below w.heap.size w y2) := Lib.hid (HF_1.out.grown hg2 HF_1.out.size (fun r hr => by injection hr with hr; have := HGE1.out; omega)); clear hr2 hg2 hz2 Ngr_1 HF_1)) | fail)
  obtain ⟨tr, htr⟩ := Ngr_2.out
  refine bodyPost_ret (results_cell_row rfl _ _ w.heap.size tr (bcs (encs [lN])).toArray _ _ rfl htr under23 rfl (by rw [List.size_toArray, bcs_len, encs_len]; exact size23)) rfl ?_
  exact ⟨by rw [← vR_one]; rfl, HF_2.out⟩

end Go.Proofs.Ytgdimnbdnepbgaa
/- The reference's order of numbers. No statement is proved here. -/
namespace Go.Proofs.Ytgdimnbdnepbgaa
open Go.RowKit
set_option linter.unusedVariables false
set_option maxRecDepth 40000
set_option linter.unusedSimpArgs false

/-- Two numbers that come in. -/
structure Ab (w : World) (a b : List UInt8) (w' : World) : Prop where
  a : BAt w' w.heap.size a
  b : BAt w' (w.heap.size + 1) b
  bel : Below w.heap.size w w'
theorem Ab.drew1 {w : World} {a b : List UInt8} {w' : World} (h : Ab w a b w') : Ab w a b { heap := w'.heap, tape := w'.tape, drawn := w'.drawn + 1, os := w'.os, output := w'.output } :=
  ⟨h.a, h.b, below_drewN' h.bel 1⟩
theorem Ab.start {w w1 w2 : World} {a b : List UInt8} (ha : a.length = 32) (hb : b.length = 32) (h1 : w1.heap[w.heap.size]? = some (.cells (bcs a).toArray 23 (0, 0))) (z1 : w1.heap.size = w.heap.size + 1) (g1 : w.grownBy w1 none)
    (h2 : w2.heap[w1.heap.size]? = some (.cells (bcs b).toArray 23 (0, 0))) (g2 : w1.grownBy w2 none) : Ab w a b w2 := by
  have b1 := below_of_grownBy g1
  have b2 := below_of_grownBy g2
  rw [z1] at h2 b2
  exact ⟨⟨ha, 23, (b2.block _ (by omega)).trans h1⟩, ⟨hb, 23, h2⟩, b1.trans (b2.mono (by omega))⟩
set_option maxHeartbeats 2000000 in
theorem below_core (a b : List UInt8) (C : Bool) (w : World) (HA : Hid (a.length = 32)) (HB : Hid (b.length = 32)) (HC : Hid (decide (leb a < leb b) = C)) :
    Calls Try.prog 104 #[.agg (bcs a).toArray, .agg (bcs b).toArray] w (Gives (.bool C) w) := by
  go_enter Try.func104, Try.ntmps104
  go_wp2_with (first | ((with_reducible show wpList _ _ _ (⟨some 2, .box 23 (.tmp 0), _, _, _, _⟩ :: _) _ _); go_must (refine wpList_box_row rfl 23 (.tmp 0) rfl (bcs a).toArray rfl ?_; intro w1 h1 z1 g1; have H1 := Lib.hid h1; have Z1 := Lib.hid z1; have G1 := Lib.hid g1; clear h1 z1 g1)) | ((with_reducible show wpList _ _ _ (⟨some 3, .box 23 (.tmp 1), _, _, _, _⟩ :: _) _ _); go_must (refine wpList_box_row rfl 23 (.tmp 1) rfl (bcs b).toArray rfl ?_; intro w2 h1 z1 g1; have H2 := Lib.hid h1; have G2 := Lib.hid g1; clear h1 z1 g1)) | fail)
  have S : Hid (Ab w a b w2) := Lib.hid (Ab.start HA.out HB.out H1.out Z1.out G1.out H2.out G2.out)
  rw [show w1.heap.size = w.heap.size + 1 from Z1.out]
  clear H1 Z1 G1 H2 G2
  have HI : Hid (∀ j, 32 ≤ j → (a.getD j 0).toNat = (b.getD j 0).toNat) := Lib.hid fun j hj => by
    rw [List.getD_eq_getElem?_getD, List.getD_eq_getElem?_getD, List.getElem?_eq_none (by rw [HA.out]; exact hj), List.getElem?_eq_none (by rw [HB.out]; exact hj)]
  go_loopw [5] (fun i wr => ∃ n : Nat, n ≤ 32 ∧ i = .int .i64 ((n : Int) - 1) ∧ Hid (∀ j, n ≤ j → (a.getD j 0).toNat = (b.getD j 0).toNat) ∧ Ab w a b wr) (fun i _ => (intOf i + 1).toNat)
  case atStart => exact ⟨32, by omega, rfl, HI, S.out⟩
  case round =>
    obtain ⟨n, hn, rfl, HJ, hp⟩ := hrel
    have H := Lib.hid hp
    clear hp S HI
    by_cases h0 : n = 0
    · subst h0
      have HR : Hid (decide (leb a < leb b) = false) := Lib.hid (by rw [leb_same a b (HA.out.trans HB.out.symm) (fun j => HJ.out j (by omega))]; exact decide_eq_false (Nat.lt_irrefl _))
      go_wp2_with fail
      go_ret
      exact ⟨congrArg (fun x => Ending.returned (.bool x)) (HR.out.symm.trans HC.out), H.out.bel⟩
    · obtain ⟨k, rfl⟩ : ∃ k, n = k + 1 := ⟨n - 1, by omega⟩
      rw [show (((k + 1 : Nat) : Int) - 1) = (k : Int) from by omega]
      have HK : Hid ((∀ j, k < j → (a.getD j 0).toNat = (b.getD j 0).toNat)) := HJ
      clear HJ
      have ca := H.out.a.cell k (by omega)
      have cb := H.out.b.cell k (by omega)
      have hki : (k : Int) < 32 := by omega
      generalize hx : (a.getD k 0).toNat = x at *
      generalize hy : (b.getD k 0).toNat = y at *
      have HX := Lib.hid hx
      have HY := Lib.hid hy
      clear hx hy
      go_wp2_with fail
      refine wp_region_still_lit (by kernel_rfl) (by kernel_rfl) ?_
      have ca' : ({ heap := wr.heap, tape := wr.tape, drawn := wr.drawn + 1, os := wr.os, output := wr.output } : World).cell? ⟨w.heap.size, k, none⟩ = some (.int .u8 (x : Int)) := ca
      have cb' : ({ heap := wr.heap, tape := wr.tape, drawn := wr.drawn + 1, os := wr.os, output := wr.output } : World).cell? ⟨w.heap.size + 1, k, none⟩ = some (.int .u8 (y : Int)) := cb
      repeat still_step
      refine wpStill_nil ?_
      have HD : Hid (Ab w a b { heap := wr.heap, tape := wr.tape, drawn := wr.drawn + 1, os := wr.os, output := wr.output }) := H.out.drew1
      clear H ca cb ca' cb'
      obtain ⟨wd, hwd⟩ : ∃ z, z = ({ heap := wr.heap, tape := wr.tape, drawn := wr.drawn + 1, os := wr.os, output := wr.output } : World) := ⟨_, rfl⟩
      rw [← hwd] at HD
      rw [← hwd]
      clear hwd
      by_cases e : x = y
      · rw [show (((x : Int)) != ((y : Int))) = false from by rw [e]; simp]
        go_wp2_with fail
        refine ⟨⟨k, by omega, by go_num, Lib.hid fun j hj => ?_, HD.out⟩, by simp [intOf]⟩
        by_cases e2 : j = k
        · rw [e2, HX.out, HY.out, e]
        · exact HK.out j (by omega)
      · rw [show (((x : Int)) != ((y : Int))) = true from by simp; omega]
        have HR : Hid (decide (leb a < leb b) = decide (x < y)) := Lib.hid (by
          by_cases hlt : x < y
          · rw [decide_eq_true (leb_less a b k (HA.out.trans HB.out.symm) HK.out (by rw [HX.out, HY.out]; exact hlt)), decide_eq_true hlt]
          · have := leb_less b a k (HB.out.trans HA.out.symm) (fun j hj => (HK.out j hj).symm) (by rw [HX.out, HY.out]; omega)
            rw [decide_eq_false (by omega), decide_eq_false (by omega)])
        have ca := HD.out.a.cell k (by omega)
        have cb := HD.out.b.cell k (by omega)
        rw [HX.out] at ca
        rw [HY.out] at cb
        go_wp2_with fail
        refine wp_region_still_lit (by kernel_rfl) (by kernel_rfl) ?_
        have ca' : ({ heap := wd.heap, tape := wd.tape, drawn := wd.drawn + 1, os := wd.os, output := wd.output } : World).cell? ⟨w.heap.size, k, none⟩ = some (.int .u8 (x : Int)) := ca
        have cb' : ({ heap := wd.heap, tape := wd.tape, drawn := wd.drawn + 1, os := wd.os, output := wd.output } : World).cell? ⟨w.heap.size + 1, k, none⟩ = some (.int .u8 (y : Int)) := cb
        repeat still_step
        refine wpStill_nil ?_
        have HE : Hid (Ab w a b { heap := wd.heap, tape := wd.tape, drawn := wd.drawn + 1, os := wd.os, output := wd.output }) := HD.out.drew1
        go_wp2_with fail
        go_ret
        exact ⟨congrArg (fun x => Ending.returned (.bool x)) (HR.out.symm.trans HC.out), HE.out.bel⟩
theorem below_any (a b : Nat) (ha : a < TT) (hb : b < TT) (w : World) : Calls Try.prog 104 #[vN a, vN b] w (Gives (.bool (decide (a < b))) w) := by
  have h := below_core (enc a) (enc b) _ w (Lib.hid (enc_len a)) (Lib.hid (enc_len b)) (Lib.hid rfl)
  rw [← nv_leb _ (enc_len a), ← nv_leb _ (enc_len b), nv_enc a ha, nv_enc b hb] at h
  exact h
end Go.Proofs.Ytgdimnbdnepbgaa
/- The reference's sum of two scalars. No statement is proved here. -/
namespace Go.Proofs.Ytgdimnbdnepbgaa
open Go.RowKit
set_option linter.unusedVariables false
set_option maxRecDepth 40000
set_option linter.unusedSimpArgs false

theorem wrap_small (z : Int) (h1 : -4611686018427387904 ≤ z) (h2 : z < 4611686018427387904) : IntKind.i64.wrap z = z := by rw [IntKind.wrap_i64]; omega
/-- The memory of plus. -/
structure Pl (w : World) (a b o : List UInt8) (w' : World) : Prop where
  ab : Ab w a b w'
  res : w'.heap[w.heap.size + 2]? = some (.cells (zbs 32) 23 (0, 0))
  o : BAt w' (w.heap.size + 3) o
theorem Pl.drew1 {w : World} {a b o : List UInt8} {w' : World} (h : Pl w a b o w') : Pl w a b o { heap := w'.heap, tape := w'.tape, drawn := w'.drawn + 1, os := w'.os, output := w'.output } :=
  ⟨h.ab.drew1, h.res, h.o⟩
theorem Pl.start {w w2 w3 w4 : World} {a b : List UInt8} (h : Ab w a b w2) (z2 : w2.heap.size = w.heap.size + 2)
    (h3 : w3.heap[w2.heap.size]? = some (.cells (zbs 32) 23 (0, 0))) (z3 : w3.heap.size = w2.heap.size + 1) (g3 : w2.grownBy w3 none)
    (h4 : w4.heap[w3.heap.size]? = some (.cells (zbs 32) 23 (0, 0))) (g4 : w3.grownBy w4 none) : Pl w a b (List.replicate 32 0) w4 := by
  have b3 := below_of_grownBy g3
  have b4 := below_of_grownBy g4
  rw [z2] at h3 z3
  rw [z3] at h4 b4
  have h2 : Ab w a b w4 := ⟨((h.a.keep b3).keep (by rw [z3]; exact b4)), ((h.b.keep b3).keep (by rw [z3]; exact b4)), h.bel.trans ((b3.mono h.bel.size).trans (b4.mono (by omega)))⟩
  exact ⟨h2, (b4.block _ (by omega)).trans h3, ⟨rfl, 23, h4⟩⟩
theorem Pl.set {w : World} {a b o o' : List UInt8} {w' w'' : World} {t : TypeId} (h : Pl w a b o w') (hg : w'.grownBy w'' (some (w.heap.size + 3))) (hl : o'.length = 32) (hh : w''.heap[w.heap.size + 3]? = some (.cells (bcs o').toArray t (0, 0))) : Pl w a b o' w'' :=
  ⟨⟨h.ab.a.grown hg (by simp), h.ab.b.grown hg (by simp), h.ab.bel.grown hg h.ab.bel.size (fun r hr => by injection hr; omega)⟩, (hg.block _ (Array.getElem?_eq_some_iff.1 h.res).1 (by simp)).trans h.res, ⟨hl, t, hh⟩⟩
theorem Pl.keep {w : World} {a b o : List UInt8} {w' w'' : World} (h : Pl w a b o w') (hb : Below w'.heap.size w' w'') : Pl w a b o w'' :=
  ⟨⟨h.ab.a.keep hb, h.ab.b.keep hb, h.ab.bel.trans (hb.mono h.ab.bel.size)⟩, (hb.block _ (Array.getElem?_eq_some_iff.1 h.res).1).trans h.res, h.o.keep hb⟩
/-- The memory of plus when L is taken off. -/
structure Pm (w : World) (g : Nat) (o l : List UInt8) (w' : World) : Prop where
  hg : w.heap.size + 4 ≤ g
  res : w'.heap[w.heap.size + 2]? = some (.cells (zbs 32) 23 (0, 0))
  o : BAt w' (w.heap.size + 3) o
  l : BAt w' g l
  bel : Below w.heap.size w w'
theorem Pm.drew1 {w : World} {g : Nat} {o l : List UInt8} {w' : World} (h : Pm w g o l w') : Pm w g o l { heap := w'.heap, tape := w'.tape, drawn := w'.drawn + 1, os := w'.os, output := w'.output } :=
  ⟨h.hg, h.res, h.o, h.l, below_drewN' h.bel 1⟩
theorem Pm.set {w : World} {g : Nat} {o l o' : List UInt8} {w' w'' : World} {t : TypeId} (h : Pm w g o l w') (hg : w'.grownBy w'' (some (w.heap.size + 3))) (hl : o'.length = 32) (hh : w''.heap[w.heap.size + 3]? = some (.cells (bcs o').toArray t (0, 0))) : Pm w g o' l w'' :=
  ⟨h.hg, (hg.block _ (Array.getElem?_eq_some_iff.1 h.res).1 (by simp)).trans h.res, ⟨hl, t, hh⟩, h.l.grown hg (by have := h.hg; simp; omega), h.bel.grown hg h.bel.size (fun r hr => by injection hr; omega)⟩
theorem Pm.start {w : World} {a b o : List UInt8} {u x y : World} {m : Nat} (h : Pl w a b o u) (hx : x.heap[u.heap.size]? = some (.cells (zbs 32) 23 (0, 0))) (zx : x.heap.size = u.heap.size + 1) (gx : u.grownBy x none)
    (hy : y.heap[u.heap.size]? = some (.cells (bcs (enc m)).toArray 23 (0, 0))) (gy : x.grownBy y (some u.heap.size)) : Pm w u.heap.size o (enc m) y := by
  obtain ⟨ho, t, ht⟩ := h.o
  have hs : w.heap.size + 3 < u.heap.size := (Array.getElem?_eq_some_iff.1 ht).1
  have hk := h.keep (below_of_grownBy gx)
  exact ⟨by omega, (gy.block _ (by omega) (by simp; omega)).trans hk.res, hk.o.grown gy (by simp; omega), ⟨enc_len m, 23, hy⟩, hk.ab.bel.grown gy hk.ab.bel.size (fun r hr => by injection hr; omega)⟩
set_option maxHeartbeats 4000000 in
theorem plus_core (a b : List UInt8) (A B R : Nat) (w : World) (HA : Hid (a.length = 32)) (HB : Hid (b.length = 32)) (HAV : Hid (leb a = A)) (HBV : Hid (leb b = B)) (HS : Hid (A + B < TT))
    (HRA : Hid (A + B < lN → R = A + B)) (HRB : Hid (¬ A + B < lN → R + lN = A + B))
    (CL : Hid (∀ w, Calls Try.prog 37 #[] w (Gives (vN lN) w)))
    (CB : Hid (∀ w, Calls Try.prog 104 #[vN (A + B), vN lN] w (Gives (.bool (decide (A + B < lN))) w))) :
    Calls Try.prog 90 #[.agg (bcs a).toArray, .agg (bcs b).toArray] w (Gives (vN R) w) := by
  go_enter Try.func90, Try.ntmps90
  go_wp2_with (first | ((with_reducible show wpList _ _ _ (⟨some 2, .box 23 (.tmp 0), _, _, _, _⟩ :: _) _ _); go_must (refine wpList_box_row rfl 23 (.tmp 0) rfl (bcs a).toArray rfl ?_; intro w1 h1 z1 g1; have H1 := Lib.hid h1; have Z1 := Lib.hid z1; have G1 := Lib.hid g1; clear h1 z1 g1)) | ((with_reducible show wpList _ _ _ (⟨some 3, .box 23 (.tmp 1), _, _, _, _⟩ :: _) _ _); go_must (refine wpList_box_row rfl 23 (.tmp 1) rfl (bcs b).toArray rfl ?_; intro w2 h1 z1 g1; have H2 := Lib.hid h1; have Z2 := Lib.hid z1; have G2 := Lib.hid g1; clear h1 z1 g1)) | ((with_reducible show wpList _ _ _ (⟨some 4, .alloc 23, _, _, _, _⟩ :: _) _ _); go_must (refine wpList_alloc_row rfl 23 rfl (.agg (zbs 32)) zero23 ?_; intro w3 h1 z1 g1; have H3 := Lib.hid h1; have Z3 := Lib.hid z1; have G3 := Lib.hid g1; clear h1 z1 g1)) | ((with_reducible show wpList _ _ _ (⟨some 5, .alloc 23, _, _, _, _⟩ :: _) _ _); go_must (refine wpList_alloc_row rfl 23 rfl (.agg (zbs 32)) zero23 ?_; intro w4 h1 z1 g1; have H4 := Lib.hid h1; have Z4 := Lib.hid z1; have G4 := Lib.hid g1; clear h1 z1 g1)) | fail)
  have S : Hid (Pl w a b (List.replicate 32 0) w4) := Lib.hid (Pl.start (Ab.start HA.out HB.out H1.out Z1.out G1.out H2.out G2.out) (by rw [Z2.out, Z1.out]) H3.out Z3.out G3.out H4.out G4.out)
  rw [show w3.heap.size = w.heap.size + 3 from by rw [Z3.out, Z2.out, Z1.out], show w2.heap.size = w.heap.size + 2 from by rw [Z2.out, Z1.out], show w1.heap.size = w.heap.size + 1 from Z1.out]
  clear H1 Z1 G1 H2 Z2 G2 H3 Z3 G3 H4 Z4 G4
  go_loopw [6, 7] (fun c i wr => ∃ n k : Nat, ∃ o : List UInt8, n ≤ 32 ∧ k ≤ 1 ∧ c = .int .i64 k ∧ i = .int .i64 n ∧ Hid (leb (o.take n) + 256 ^ n * k = leb (a.take n) + leb (b.take n)) ∧ Pl w a b o wr) (fun _ i _ => 32 - (intOf i).toNat)
  case atStart => exact ⟨0, 0, List.replicate 32 0, by omega, by omega, rfl, rfl, Lib.hid (by simp [leb]), S.out⟩
  case round =>
    obtain ⟨n, k, o, hn, hk, rfl, rfl, HV, hp⟩ := hrel
    have H := Lib.hid hp
    clear hp S
    by_cases hlt : n < 32
    · have hni : (n : Int) < 32 := by omega
      have ca := H.out.ab.a.cell n (by omega)
      have cb := H.out.ab.b.cell n (by omega)
      have HX := Lib.hid (UInt8.toNat_lt (a.getD n 0))
      have HY := Lib.hid (UInt8.toNat_lt (b.getD n 0))
      have HST := Lib.hid (fun v d (e : k + (a.getD n 0).toNat + (b.getD n 0).toNat = v + 256 * d) => add_step _ _ _ _ _ k v d n HV.out e)
      rw [← leb_take_succ, ← leb_take_succ] at HST
      generalize (a.getD n 0).toNat = x at *
      generalize (b.getD n 0).toNat = y at *
      go_wp2_with fail
      refine wp_region_still_lit (by kernel_rfl) (by kernel_rfl) ?_
      have ca' : ({ heap := wr.heap, tape := wr.tape, drawn := wr.drawn + 1, os := wr.os, output := wr.output } : World).cell? ⟨w.heap.size, n, none⟩ = some (.int .u8 (x : Int)) := ca
      have cb' : ({ heap := wr.heap, tape := wr.tape, drawn := wr.drawn + 1, os := wr.os, output := wr.output } : World).cell? ⟨w.heap.size + 1, n, none⟩ = some (.int .u8 (y : Int)) := cb
      repeat still_step
      refine wpStill_nil ?_
      have HV1 : Hid (IntKind.i64.wrap (IntKind.i64.wrap ((k : Int) + IntKind.i64.wrap (x : Int)) + IntKind.i64.wrap (y : Int)) = ((k + x + y : Nat) : Int)) := by have := HX.out; have := HY.out; rw [IntKind.wrap_i64, IntKind.wrap_i64, IntKind.wrap_i64, IntKind.wrap_i64]; exact Lib.hid (by omega)
      rw [HV1.out]
      have HD : Hid (Pl w a b o { heap := wr.heap, tape := wr.tape, drawn := wr.drawn + 1, os := wr.os, output := wr.output }) := H.out.drew1
      clear H ca cb ca' cb' HV1
      obtain ⟨wd, hwd⟩ : ∃ z, z = ({ heap := wr.heap, tape := wr.tape, drawn := wr.drawn + 1, os := wr.os, output := wr.output } : World) := ⟨_, rfl⟩
      rw [← hwd] at HD
      rw [← hwd]
      clear hwd
      have HSB : Hid (k + x + y < 512) := Lib.hid (by have := HX.out; have := HY.out; omega)
      generalize k + x + y = s at *
      have hs0 : (s : Int) < 512 := by have := HSB.out; omega
      have HOL : Hid (o.length = 32) := HD.out.o.1
      obtain ⟨t, ht⟩ := HD.out.o.2
      have HT := Lib.hid ht
      clear ht
      go_wp2_with (first | ((with_reducible show wpList _ _ _ (⟨none, .store 5 (.tmp 29) (.tmp 28), _, _, _, _⟩ :: _) _ _); go_must (refine wpList_store_one rfl 5 (.tmp 29) (.tmp 28) rfl (w.heap.size + 3) n rfl .u8 _ rfl t _ HT.out size5 (by simp only [List.size_toArray, bcs_len]; have := HOL.out; omega) ?_; intro w5 hh hg hz; have HH := Lib.hid hh; have HG := Lib.hid hg; clear hh hg hz)) | fail)
      have hh := HH.out
      rw [show (Value.int IntKind.u8 ((s : Int) % 256)) = bc (UInt8.ofNat (s % 256)) from by unfold bc; rw [of_byte, Nat.mod_mod]; rfl, bcs_put] at hh
      refine ⟨⟨n + 1, s / 256, _, by omega, by omega, by go_num, by go_num, Lib.hid ?_, HD.out.set HG.out (by rw [List.length_set]; exact HOL.out) hh⟩, by simp [intOf]; omega⟩
      rw [leb_take_put _ _ _ (by have := HOL.out; omega), of_byte, Nat.mod_mod]
      exact HST.out (s % 256) (s / 256) (by omega)
    · obtain rfl : n = 32 := by omega
      have HOL : Hid (o.length = 32) := H.out.o.1
      have HOV : Hid (leb o = A + B) := Lib.hid (by
        have h := HV.out
        rw [leb_take_all _ _ HOL.out, leb_take_all _ _ HA.out, leb_take_all _ _ HB.out, HAV.out, HBV.out, show (256 : Nat) ^ 32 = 115792089237316195423570985008687907853269984665640564039457584007913129639936 from rfl] at h
        have h2 := HS.out
        unfold TT at h2
        omega)
      have HOE : Hid (o = enc (A + B)) := Lib.hid (by have h := leb_inj o HOL.out; rw [HOV.out] at h; exact h)
      clear HV
      obtain ⟨t, ht⟩ := H.out.o.2
      have HN : Hid (NAt wr (w.heap.size + 3) (A + B)) := Lib.hid ⟨t, by rw [← HOE.out]; exact ht⟩
      clear ht
      by_cases hc : A + B < lN
      · rw [decide_eq_true hc] at CB
        have HR := HRA.out hc
        subst HR
        go_wp2_with fail
        refine region_wq (by kernel_rfl) (by kernel_rfl) ?_
        refine wq_load rfl (.tmp 5) rfl (w.heap.size + 3) (A + B) rfl HN.out ?_
        simp only [Act.put, List.setIfInBounds_toArray, List.set_cons_zero, List.set_cons_succ]
        refine wq_call rfl 37 [] #[] rfl [] rfl (CG37 _) (vN lN) CL.out ?_
        simp only [Act.put, List.setIfInBounds_toArray, List.set_cons_zero, List.set_cons_succ]
        refine wq_call rfl 104 [.tmp 32, .tmp 33] #[23, 23] rfl [vN (A + B), vN lN] rfl (CG104 _) (.bool true) CB.out ?_
        simp only [Act.put, List.setIfInBounds_toArray, List.set_cons_zero, List.set_cons_succ]
        refine wq_nil ?_
        intro W hb
        have H1 := Lib.hid (H.out.keep hb)
        clear hb H HN
        obtain ⟨t, ht⟩ := H1.out.o.2
        have HT := Lib.hid ht
        clear ht
        go_wp2_with (first | ((with_reducible show wpList _ _ _ (⟨_, .load 23 (.tmp 5), _, _, _, _⟩ :: _) _ _); go_must (refine wpList_load_arr rfl 23 (.tmp 5) rfl (w.heap.size + 3) 0 rfl (bcs o) (fun i u hu => by rw [Nat.zero_add]; exact row_cells HT.out i u (by simpa using hu)) _ under23 rfl (by rw [bcs_len, HOL.out]; exact size23) ?_)) | ((with_reducible show wpList _ _ _ (⟨none, .store 23 (.tmp 4) (.tmp 35), _, _, _, _⟩ :: _) _ _); go_must (refine wpList_store_all rfl 23 (.tmp 4) (.tmp 35) rfl (w.heap.size + 2) rfl (bcs o).toArray rfl 23 _ H1.out.res (by rw [List.size_toArray, bcs_len, HOL.out]; exact size23) (by rw [List.size_toArray, bcs_len, HOL.out]; rfl) (bcs_one _) ?_; intro x6 hh hg hz; have HH := Lib.hid hh; have HG := Lib.hid hg; clear hh hg hz)) | fail)
        refine bodyPost_ret (results_cell_row rfl _ _ (w.heap.size + 2) 23 (bcs o).toArray _ _ rfl HH.out under23 rfl (by rw [List.size_toArray, bcs_len, HOL.out]; exact size23)) rfl ?_
        exact ⟨by rw [HOE.out]; rfl, H1.out.ab.bel.grown HG.out H1.out.ab.bel.size (fun r hr => by injection hr; omega)⟩
      · rw [decide_eq_false hc] at CB
        have HR := Lib.hid (HRB.out hc)
        clear HRA HRB
        go_wp2_with fail
        refine region_wq (by kernel_rfl) (by kernel_rfl) ?_
        refine wq_load rfl (.tmp 5) rfl (w.heap.size + 3) (A + B) rfl HN.out ?_
        simp only [Act.put, List.setIfInBounds_toArray, List.set_cons_zero, List.set_cons_succ]
        refine wq_call rfl 37 [] #[] rfl [] rfl (CG37 _) (vN lN) CL.out ?_
        simp only [Act.put, List.setIfInBounds_toArray, List.set_cons_zero, List.set_cons_succ]
        refine wq_call rfl 104 [.tmp 32, .tmp 33] #[23, 23] rfl [vN (A + B), vN lN] rfl (CG104 _) (.bool false) CB.out ?_
        simp only [Act.put, List.setIfInBounds_toArray, List.set_cons_zero, List.set_cons_succ]
        refine wq_nil ?_
        intro W hb
        have H1 := Lib.hid (H.out.keep hb)
        clear hb H HN
        go_wp2_with fail
        refine (CL.out _).mono ?_
        rintro e x4 ⟨rfl, hb⟩
        have H2 := Lib.hid (H1.out.keep hb)
        clear hb H1
        go_wp2_with (first | ((with_reducible show wpList _ _ _ (⟨some 8, .alloc 23, _, _, _, _⟩ :: _) _ _); go_must (refine wpList_alloc_row rfl 23 rfl (.agg (zbs 32)) zero23 ?_; intro x5 h1 z1 g1; have H3 := Lib.hid h1; have Z3 := Lib.hid z1; have G3 := Lib.hid g1; clear h1 z1 g1)) | ((with_reducible show wpList _ _ _ (⟨none, .store 23 (.tmp 8) (.tmp 36), _, _, _, _⟩ :: _) _ _); go_must (refine wpList_store_all rfl 23 (.tmp 8) (.tmp 36) rfl (x4.heap.size) rfl (bcs (enc lN)).toArray rfl 23 _ H3.out (by rw [List.size_toArray, bcs_enc_len]; exact size23) (by rw [List.size_toArray, bcs_enc_len]; rfl) (bcs_one _) ?_; intro x6 hh hg hz; have HH := Lib.hid hh; have HG := Lib.hid hg; clear hh hg hz)) | fail)
        have SM : Hid (Pm w x4.heap.size o (enc lN) x6) := Lib.hid (Pm.start H2.out H3.out Z3.out G3.out HH.out HG.out)
        clear H2 H3 Z3 G3 HH HG
        have HLV : Hid (leb (enc lN) = lN) := Lib.hid (by rw [← nv_leb _ (enc_len lN)]; exact nv_enc lN (by unfold lN; omega))
        have HLL : Hid ((enc lN).length = 32) := Lib.hid (enc_len lN)
        generalize vN lN = vl at *
        generalize vN (A + B) = vs at *
        generalize enc lN = l at *
        generalize x4.heap.size = g at *
        go_loopw [6, 9] (fun c i wr => ∃ n k : Nat, ∃ q : List UInt8, n ≤ 32 ∧ k ≤ 1 ∧ c = .int .i64 (-(k : Int)) ∧ i = .int .i64 n ∧ Hid (leb (q.take n) + leb (l.take n) = leb (o.take n) + 256 ^ n * k) ∧ Hid (∀ j, n ≤ j → (q.getD j 0).toNat = (o.getD j 0).toNat) ∧ Pm w g q l wr) (fun _ i _ => 32 - (intOf i).toNat)
        case atStart => exact ⟨0, 0, o, by omega, by omega, rfl, rfl, Lib.hid (by simp [leb]), Lib.hid (fun _ _ => rfl), SM.out⟩
        case round =>
          obtain ⟨n, k, q, hn, hk, rfl, rfl, HV, HE, hp⟩ := hrel
          have H := Lib.hid hp
          clear hp SM
          by_cases hlt : n < 32
          · have hni : (n : Int) < 32 := by omega
            have ca := H.out.o.cell n (by omega)
            have cb := H.out.l.cell n (by omega)
            rw [HE.out n (Nat.le_refl n)] at ca
            have HX := Lib.hid (UInt8.toNat_lt (o.getD n 0))
            have HY := Lib.hid (UInt8.toNat_lt (l.getD n 0))
            have HST := Lib.hid (fun v d (e : v + (l.getD n 0).toNat + k = (o.getD n 0).toNat + 256 * d) => sub_step _ _ _ _ _ k v d n HV.out e)
            rw [← leb_take_succ, ← leb_take_succ] at HST
            generalize (o.getD n 0).toNat = x at *
            generalize (l.getD n 0).toNat = y at *
            have HQL : Hid (q.length = 32) := H.out.o.1
            go_wp2_with fail
            refine wp_region_still_lit (by kernel_rfl) (by kernel_rfl) ?_
            have ca' : ({ heap := wr.heap, tape := wr.tape, drawn := wr.drawn + 1, os := wr.os, output := wr.output } : World).cell? ⟨w.heap.size + 3, n, none⟩ = some (.int .u8 (x : Int)) := ca
            have cb' : ({ heap := wr.heap, tape := wr.tape, drawn := wr.drawn + 1, os := wr.os, output := wr.output } : World).cell? ⟨g, n, none⟩ = some (.int .u8 (y : Int)) := cb
            repeat still_step
            refine wpStill_nil ?_
            obtain ⟨u, hu⟩ : ∃ u : Nat, (x : Int) - (y : Int) - (k : Int) = (u : Int) - 256 := ⟨x + 256 - y - k, by have := HY.out; omega⟩
            have HV1 : Hid (IntKind.i64.wrap (IntKind.i64.wrap (IntKind.i64.wrap (x : Int) - IntKind.i64.wrap (y : Int)) + -(k : Int)) = (u : Int) - 256) := by have := HX.out; have := HY.out; rw [wrap_small (x : Int) (by omega) (by omega), wrap_small (y : Int) (by omega) (by omega), wrap_small ((x : Int) - (y : Int)) (by omega) (by omega), wrap_small _ (by omega) (by omega), ← hu]; exact Lib.hid (by omega)
            rw [HV1.out]
            have HU := Lib.hid hu
            have HUB : Hid (u < 512) := Lib.hid (by have := HX.out; omega)
            have HD : Hid (Pm w g q l { heap := wr.heap, tape := wr.tape, drawn := wr.drawn + 1, os := wr.os, output := wr.output }) := H.out.drew1
            clear H ca cb ca' cb' HV1 hu
            obtain ⟨wd, hwd⟩ : ∃ z, z = ({ heap := wr.heap, tape := wr.tape, drawn := wr.drawn + 1, os := wr.os, output := wr.output } : World) := ⟨_, rfl⟩
            rw [← hwd] at HD
            rw [← hwd]
            clear hwd
            have hub : (u : Int) < 512 := by have := HUB.out; omega
            obtain ⟨t, ht⟩ := HD.out.o.2
            have HT := Lib.hid ht
            clear ht
            by_cases hneg : u < 256
            · skip
              have hs0 : (u : Int) < 256 := by omega
              go_wp2_with (first | ((with_reducible show wpList _ _ _ (⟨none, .store 5 (.tmp 57) (.tmp 56), _, _, _, _⟩ :: _) _ _); go_must (refine wpList_store_one rfl 5 (.tmp 57) (.tmp 56) rfl (w.heap.size + 3) n rfl .u8 _ rfl t _ HT.out size5 (by simp only [List.size_toArray, bcs_len]; have := HQL.out; omega) ?_; intro w5 hh hg hz; have HH := Lib.hid hh; have HG := Lib.hid hg; clear hh hg hz)) | fail)
              have hh := HH.out
              rw [show (Value.int IntKind.u8 ((u : Int) % 256)) = bc (UInt8.ofNat (u % 256)) from by unfold bc; rw [of_byte, Nat.mod_mod]; rfl, bcs_put] at hh
              refine ⟨⟨n + 1, 1, _, by omega, by omega, rfl, by go_num, Lib.hid ?_, Lib.hid fun j hj => ?_, HD.out.set HG.out (by rw [List.length_set]; exact HQL.out) hh⟩, by simp [intOf]; omega⟩
              · rw [leb_take_put _ _ _ (by have := HQL.out; omega), of_byte, Nat.mod_mod]
                exact HST.out (u % 256) 1 (by have := HU.out; omega)
              · rw [getD_set_above _ _ _ _ (by omega)]
                exact HE.out j (by omega)
            · skip
              have hs0 : (256 : Int) ≤ (u : Int) := by omega
              go_wp2_with (first | ((with_reducible show wpList _ _ _ (⟨none, .store 5 (.tmp 57) (.tmp 56), _, _, _, _⟩ :: _) _ _); go_must (refine wpList_store_one rfl 5 (.tmp 57) (.tmp 56) rfl (w.heap.size + 3) n rfl .u8 _ rfl t _ HT.out size5 (by simp only [List.size_toArray, bcs_len]; have := HQL.out; omega) ?_; intro w5 hh hg hz; have HH := Lib.hid hh; have HG := Lib.hid hg; clear hh hg hz)) | fail)
              have hh := HH.out
              rw [show (Value.int IntKind.u8 ((u : Int) % 256)) = bc (UInt8.ofNat (u % 256)) from by unfold bc; rw [of_byte, Nat.mod_mod]; rfl, bcs_put] at hh
              refine ⟨⟨n + 1, 0, _, by omega, by omega, by go_num, by go_num, Lib.hid ?_, Lib.hid fun j hj => ?_, HD.out.set HG.out (by rw [List.length_set]; exact HQL.out) hh⟩, by simp [intOf]; omega⟩
              · rw [leb_take_put _ _ _ (by have := HQL.out; omega), of_byte, Nat.mod_mod]
                exact HST.out (u % 256) 0 (by have := HU.out; omega)
              · rw [getD_set_above _ _ _ _ (by omega)]
                exact HE.out j (by omega)
          · obtain rfl : n = 32 := by omega
            have HOL : Hid (q.length = 32) := H.out.o.1
            have HQV : Hid (leb q + lN = A + B + 256 ^ 32 * k) := Lib.hid (by
              have h := HV.out
              rw [leb_take_all _ _ HOL.out, leb_take_all _ _ HLL.out, leb_take_all _ _ (by rw [HOE.out]; exact enc_len _), HLV.out, HOV.out] at h
              exact h)
            have HRV : Hid (leb q = R) := Lib.hid (by
              have h := HQV.out
              have h2 := leb_lt q
              rw [HOL.out] at h2
              rw [show (256 : Nat) ^ 32 = 115792089237316195423570985008687907853269984665640564039457584007913129639936 from rfl] at h h2
              have h3 := HR.out
              have h4 : lN < 115792089237316195423570985008687907853269984665640564039457584007913129639936 := by unfold lN; omega
              generalize lN = L at *
              omega)
            have HRE : Hid (q = enc R) := Lib.hid (by have h := leb_inj q HOL.out; rw [HRV.out] at h; exact h)
            obtain ⟨t, ht⟩ := H.out.o.2
            have HT := Lib.hid ht
            clear ht HV HE HQV
            go_wp2_with (first | ((with_reducible show wpList _ _ _ (⟨_, .load 23 (.tmp 5), _, _, _, _⟩ :: _) _ _); go_must (refine wpList_load_arr rfl 23 (.tmp 5) rfl (w.heap.size + 3) 0 rfl (bcs q) (fun i u hu => by rw [Nat.zero_add]; exact row_cells HT.out i u (by simpa using hu)) _ under23 rfl (by rw [bcs_len, HOL.out]; exact size23) ?_)) | ((with_reducible show wpList _ _ _ (⟨none, .store 23 (.tmp 4) (.tmp 60), _, _, _, _⟩ :: _) _ _); go_must (refine wpList_store_all rfl 23 (.tmp 4) (.tmp 60) rfl (w.heap.size + 2) rfl (bcs q).toArray rfl 23 _ H.out.res (by rw [List.size_toArray, bcs_len, HOL.out]; exact size23) (by rw [List.size_toArray, bcs_len, HOL.out]; rfl) (bcs_one _) ?_; intro x6 hh hg hz; have HH := Lib.hid hh; have HG := Lib.hid hg; clear hh hg hz)) | fail)
            refine bodyPost_ret (results_cell_row rfl _ _ (w.heap.size + 2) 23 (bcs q).toArray _ _ rfl HH.out under23 rfl (by rw [List.size_toArray, bcs_len, HOL.out]; exact size23)) rfl ?_
            exact ⟨by rw [HRE.out]; rfl, H.out.bel.grown HG.out H.out.bel.size (fun r hr => by injection hr; omega)⟩
theorem splus_any (a b : Nat) (ha : a < lN) (hb : b < lN) (w : World) : Calls Try.prog 90 #[vN a, vN b] w (Gives (vN ((a + b) % lN)) w) := by
  have hT : lN + lN < TT := by unfold lN TT; omega
  have h := sumL a b ha hb
  have e : ∀ n, n < TT → leb (enc n) = n := fun n hn => by rw [← nv_leb _ (enc_len n)]; exact nv_enc n hn
  exact plus_core (enc a) (enc b) a b _ w (Lib.hid (enc_len a)) (Lib.hid (enc_len b)) (Lib.hid (e a (by omega))) (Lib.hid (e b (by omega))) (Lib.hid (by omega)) (Lib.hid (fun hc => by rw [h, if_pos hc])) (Lib.hid (fun hc => by rw [h, if_neg hc]; omega)) (Lib.hid rL_any) (Lib.hid (below_any _ _ (by omega) (by omega)))
end Go.Proofs.Ytgdimnbdnepbgaa
/- The reference's Bit. No statement is proved here. -/
namespace Go.Proofs.Ytgdimnbdnepbgaa
open Go.RowKit
set_option linter.unusedVariables false
set_option maxRecDepth 40000
set_option linter.unusedSimpArgs false

set_option maxHeartbeats 1000000 in
theorem rBit_core (l : List UInt8) (i : Nat) (b : Bool) (w : World) (hi : i < 256) (HL : Hid (l.length = 32)) (HB : Hid ((((((l[i / 8]?.getD 0).toNat : Nat) : Int) / 2 ^ (i % 8)).tmod 2 == 1) = b)) :
    Calls Try.prog 89 #[.agg (bcs l).toArray, .int .i64 i] w (Gives (.bool b) w) := by
  have hii : (i : Int) < 256 := by omega
  have hi0 : (0 : Int) ≤ (i : Int) := by omega
  go_enter Try.func89, Try.ntmps89
  go_wp2_with (first | ((with_reducible show wpList _ _ _ (⟨some 2, .box 23 (.tmp 0), _, _, _, _⟩ :: _) _ _); go_must (refine wpList_box_row rfl 23 (.tmp 0) rfl (bcs l).toArray rfl ?_; intro w1 h1 z1 g1; have cb := (show BAt w1 w.heap.size l from ⟨HL.out, 23, h1⟩).cell (i / 8) (by omega); have HF := Lib.hid (below_of_grownBy g1); clear h1 z1 g1)) | fail)
  go_ret
  exact ⟨congrArg (fun x => Ending.returned (.bool x)) HB.out, HF.out⟩
theorem rBit_any (a i : Nat) (ha : a < TT) (hi : i < 256) (w : World) : Calls Try.prog 89 #[vN a, .int .i64 i] w (Gives (.bool (decide (a / 2 ^ i % 2 = 1))) w) := by
  refine rBit_core (enc a) i _ w hi (Lib.hid (enc_len a)) (Lib.hid ?_)
  rw [bit_int, ← leb_bit, ← nv_leb _ (enc_len a), nv_enc a ha, Bool.eq_iff_iff, beq_iff_eq, decide_eq_true_eq]
  omega
end Go.Proofs.Ytgdimnbdnepbgaa
/- The reference's Mul2. No statement is proved here. -/
namespace Go.Proofs.Ytgdimnbdnepbgaa
open Go.RowKit
set_option linter.unusedVariables false
set_option maxRecDepth 40000
set_option linter.unusedSimpArgs false

/-- A loop's rows: those that stay, and the one that is filled anew. -/
structure Lp (w : World) (ρ : List (Nat × List Value)) (g : Nat) (o : List Value) (W : World) : Prop where
  rows : Rws W ρ
  out : CAt W g o
  ne : ∀ r ∈ ρ, r.1 ≠ g
  bel : Below w.heap.size w W
  ge : w.heap.size ≤ g
theorem Lp.keep {w W W' : World} {ρ : List (Nat × List Value)} {g : Nat} {o : List Value} (h : Lp w ρ g o W) (hb : Below W.heap.size W W') : Lp w ρ g o W' :=
  ⟨fun r hr => (h.rows r hr).keep hb, h.out.keep hb, h.ne, h.bel.trans (hb.mono h.bel.size), h.ge⟩
theorem Lp.set {w W W' : World} {ρ : List (Nat × List Value)} {g : Nat} {o o' : List Value} (h : Lp w ρ g o W) (hg : W.grownBy W' (some g)) (c : CAt W' g o') : Lp w ρ g o' W' :=
  ⟨fun r hr => (h.rows r hr).grown hg (fun e => h.ne r hr (by injection e)), c, h.ne, h.bel.grown hg h.bel.size (fun r hr => by injection hr with hr; rw [← hr]; exact h.ge), h.ge⟩
theorem Lp.get {w W : World} {ρ : List (Nat × List Value)} {g : Nat} {o : List Value} (h : Hid (Lp w ρ g o W)) (i : Nat) {a : Nat} {cs : List Value} (hi : ρ[i]? = some (a, cs)) : CAt W a cs := h.out.rows _ (List.mem_of_getElem? hi)
/-- A far point's three numbers in words. -/
structure Fr where
  x : List Nat
  y : List Nat
  z : List Nat
structure Fr.Ok (f : Fr) : Prop where
  x : f.x.length = 10
  y : f.y.length = 10
  z : f.z.length = 10
def Fr.cs (f : Fr) : List Value := ics (fw f.x f.y f.z)
def vF (f : Fr) : Value := .agg (f.cs).toArray
theorem Fr.len {f : Fr} (h : f.Ok) : f.cs.length = 30 := fw_len h.x h.y h.z
theorem loadFr {o : Oper} {a : Act} {w : World} (x : Operand) (ho : o.op = .load 83 x) (g : Nat) (f : Fr) (hx : a.eval x = .pointer (some ⟨g, 0, none⟩)) (hr : CAt w g f.cs) (hf : f.Ok) : (execOp a.eval o).run Try.prog w = .ok (.value (vF f)) w := loadQ x ho g f.x f.y f.z hx hr hf.x hf.y hf.z

set_option maxHeartbeats 600000 in
theorem rMul2_P (a b px py qx qy dd rx ry : Nat) (d : List Nat) (fo fp fq : Fr) (GD G1 G2 : Nat → Fr → Prop) (w : World)
    (Ld : Hid (d.length = 10))
    (C0 : Hid (∀ w, Calls Try.prog 49 #[vR [px, py]] w (Gives (.int .i64 0) w)))
    (C1 : Hid (∀ w, Calls Try.prog 49 #[vR [qx, qy]] w (Gives (.int .i64 0) w)))
    (C2 : Hid (∀ w, Calls Try.prog 46 #[] w (Gives (vN dd) w)))
    (C3 : Hid (∀ w, Calls Try.prog 68 #[vN dd] w (Gives (.agg (ics d).toArray) w)))
    (C4 : Hid (∀ w, Calls Try.prog 84 #[] w (Gives (vR [0, 1]) w)))
    (C5 : Hid (∀ w, Calls Try.prog 87 #[vR [0, 1]] w (Gives (vF fo) w)))
    (C6 : Hid (∀ w, Calls Try.prog 87 #[vR [px, py]] w (Gives (vF fp) w)))
    (C7 : Hid (∀ w, Calls Try.prog 87 #[vR [qx, qy]] w (Gives (vF fq) w)))
    (H256 : Hid (GD 256 fo)) (Lfo : Hid fo.Ok) (Lfp : Hid fp.Ok) (Lfq : Hid fq.Ok)
    (HN : Hid (∀ f, GD 0 f → ∀ w, Calls Try.prog 85 #[vF f] w (Gives (vR [rx, ry]) w)))
    (HD : Hid (∀ i f, i < 256 → GD (i + 1) f → ∃ u : Fr, u.Ok ∧ (∀ w, Calls Try.prog 86 #[.agg (ics d).toArray, vF f, vF f] w (Gives (vF u) w)) ∧ G1 i u))
    (HA1 : Hid (∀ i u, i < 256 → G1 i u → u.Ok → a / 2 ^ i % 2 = 1 → ∃ v : Fr, v.Ok ∧ (∀ w, Calls Try.prog 86 #[.agg (ics d).toArray, vF u, vF fp] w (Gives (vF v) w)) ∧ G2 i v)) (HA0 : Hid (∀ i u, i < 256 → G1 i u → ¬ a / 2 ^ i % 2 = 1 → G2 i u))
    (HB1 : Hid (∀ i u, i < 256 → G2 i u → u.Ok → b / 2 ^ i % 2 = 1 → ∃ v : Fr, v.Ok ∧ (∀ w, Calls Try.prog 86 #[.agg (ics d).toArray, vF u, vF fq] w (Gives (vF v) w)) ∧ GD i v)) (HB0 : Hid (∀ i u, i < 256 → G2 i u → ¬ b / 2 ^ i % 2 = 1 → GD i u))
    (BA : Hid (∀ i : Nat, i < 256 → ∀ w, Calls Try.prog 89 #[vN a, .int .i64 i] w (Gives (.bool (decide (a / 2 ^ i % 2 = 1))) w)))
    (BB : Hid (∀ i : Nat, i < 256 → ∀ w, Calls Try.prog 89 #[vN b, .int .i64 i] w (Gives (.bool (decide (b / 2 ^ i % 2 = 1))) w))) :
    Calls Try.prog 54 #[vN a, vR [px, py], vN b, vR [qx, qy]] w (Gives (vR [rx, ry]) w) := by
  have HM0 : Hid (Rws w []) := rw0 w
  have HF0 : Hid (Below w.heap.size w w) := Lib.hid (Below.refl _ _)
  go_enter Try.func54, Try.ntmps54
  go_wp2_with (first | ((with_reducible show wpList _ _ _ (⟨some 4, .box 23 (.tmp 0), _, _, _, _⟩ :: _) _ _); go_must (refine wpList_box_row rfl 23 (.tmp 0) rfl (bcs (enc a)).toArray rfl ?_; intro u1 a1 b1 c1; have HG2 : Hid (w.heap.size ≤ w.heap.size) := Lib.hid HF0.out.size; have HM2 := rwN HM0 (below_of_grownBy c1) (cbS (cs := bcs (enc a)) a1); have HF2 := bT HF0 (below_of_grownBy c1); clear a1 b1 c1 HM0 HF0)) | ((with_reducible show wpList _ _ _ (⟨some 5, .box 35 (.tmp 1), _, _, _, _⟩ :: _) _ _); go_must (refine wpList_box_row rfl 35 (.tmp 1) rfl (bcs (encs [px, py])).toArray rfl ?_; intro u3 a3 b3 c3; have HG4 : Hid (w.heap.size ≤ u1.heap.size) := Lib.hid HF2.out.size; have HM4 := rwN HM2 (below_of_grownBy c3) (cbS (cs := bcs (encs [px, py])) a3); have HF4 := bT HF2 (below_of_grownBy c3); clear a3 b3 c3 HM2 HF2)) | ((with_reducible show wpList _ _ _ (⟨some 6, .box 23 (.tmp 2), _, _, _, _⟩ :: _) _ _); go_must (refine wpList_box_row rfl 23 (.tmp 2) rfl (bcs (enc b)).toArray rfl ?_; intro u5 a5 b5 c5; have HG6 : Hid (w.heap.size ≤ u3.heap.size) := Lib.hid HF4.out.size; have HM6 := rwN HM4 (below_of_grownBy c5) (cbS (cs := bcs (enc b)) a5); have HF6 := bT HF4 (below_of_grownBy c5); clear a5 b5 c5 HM4 HF4)) | ((with_reducible show wpList _ _ _ (⟨some 7, .box 35 (.tmp 3), _, _, _, _⟩ :: _) _ _); go_must (refine wpList_box_row rfl 35 (.tmp 3) rfl (bcs (encs [qx, qy])).toArray rfl ?_; intro u7 a7 b7 c7; have HG8 : Hid (w.heap.size ≤ u5.heap.size) := Lib.hid HF6.out.size; have HM8 := rwN HM6 (below_of_grownBy c7) (cbS (cs := bcs (encs [qx, qy])) a7); have HF8 := bT HF6 (below_of_grownBy c7); clear a7 b7 c7 HM6 HF6)) | ((with_reducible show wpList _ _ _ (⟨some 8, .alloc 35, _, _, _, _⟩ :: _) _ _); go_must (refine wpList_alloc_row rfl 35 rfl (.agg (zbs 64)) zero35 ?_; intro u9 a9 b9 c9; have HG10 : Hid (w.heap.size ≤ u7.heap.size) := Lib.hid HF8.out.size; have HM10 := rwN HM8 (below_of_grownBy c9) (cbS (cs := bcs (List.replicate 64 0)) a9); have HF10 := bT HF8 (below_of_grownBy c9); clear a9 b9 c9 HM8 HF8)) | ((with_reducible show wpList _ _ _ (⟨some 14, .load 35 (.tmp 5), _, _, _, _⟩ :: _) _ _); go_must (refine wpList_exec rfl (vR [px, py]) (loadP (.tmp 5) rfl (u1.heap.size) px py rfl (rwG HM10 3 rfl)) ?_)) | fail)
  generalize u1.heap.size = gp at *
  generalize u3.heap.size = gb at *
  generalize u5.heap.size = gq at *
  generalize u7.heap.size = gr at *
  refine (C0.out _).mono ?_
  rintro e11 x11 ⟨rfl, hb11⟩
  have HM11 := rwC HM10 hb11
  have HF11 := bT HF10 hb11
  clear hb11 HM10 HF10
  go_wp2_with (first | ((with_reducible show wpList _ _ _ (⟨some 18, .load 35 (.tmp 7), _, _, _, _⟩ :: _) _ _); go_must (refine wpList_exec rfl (vR [qx, qy]) (loadP (.tmp 7) rfl (gq) qx qy rfl (rwG HM11 1 rfl)) ?_)) | fail)
  refine (C1.out _).mono ?_
  rintro e12 x12 ⟨rfl, hb12⟩
  have HM12 := rwC HM11 hb12
  have HF12 := bT HF11 hb12
  clear hb12 HM11 HF11
  go_wp2_with fail
  refine RO.region_once (P := Try.prog) [.val (vN dd), .val (.agg (ics d).toArray), .val (vR [0, 1]), .val (vF fo), .val (vR [px, py]), .val (vF fp), .val (vR [qx, qy]), .val (vF fq), .new ziw 65 (ics d).toArray, .new zi30.toArray 83 (fo.cs).toArray, .new zi30.toArray 83 (fp.cs).toArray, .new zi30.toArray 83 (fq.cs).toArray, .put 8, .put 9, .put 10, .put 11] 55 (by kernel_rfl) (by kernel_rfl) (by kernel_rfl) (by kernel_rfl) rfl rfl ⟨
    fun γ a_ w_ hb D => vcall 46 [] #[] rfl [] rfl (CG46 _) C2.out,
    fun γ a_ w_ hb D => vcall 68 [.tmp 23] #[23] rfl [vN dd] (hx1 (D.1 0 23 rfl rfl)) (CG68 _) C3.out,
    fun γ a_ w_ hb D => vcall 84 [] #[] rfl [] rfl (CG84 _) C4.out,
    fun γ a_ w_ hb D => vcall 87 [.tmp 25] #[35] rfl [vR [0, 1]] (hx1 (D.1 2 25 rfl rfl)) (CG87 _) C5.out,
    fun γ a_ w_ hb D => .inl (loadP (.tmp 5) rfl (gp) px py (D.2 5 rfl) ((rwG HM12 3 rfl).keep hb)),
    fun γ a_ w_ hb D => vcall 87 [.tmp 27] #[35] rfl [vR [px, py]] (hx1 (D.1 4 27 rfl rfl)) (CG87 _) C6.out,
    fun γ a_ w_ hb D => .inl (loadP (.tmp 7) rfl (gq) qx qy (D.2 7 rfl) ((rwG HM12 1 rfl).keep hb)),
    fun γ a_ w_ hb D => vcall 87 [.tmp 29] #[35] rfl [vR [qx, qy]] (hx1 (D.1 6 29 rfl rfl)) (CG87 _) C7.out,
    fun a_ w_ => exec_alloc 65 rfl (.agg ziw) zero65 w_,
    fun a_ w_ => exec_alloc 83 rfl (.agg zi30.toArray) zero83 w_,
    fun a_ w_ => exec_alloc 83 rfl (.agg zi30.toArray) zero83 w_,
    fun a_ w_ => exec_alloc 83 rfl (.agg zi30.toArray) zero83 w_,
    RO.put_ok rfl (fun γ a_ w_ D hz => fill 65 (.tmp 9) (.tmp 24) rfl (γ 8) (ics d) (zi10) (by rw [ile Ld.out]; exact size65) (by rw [ile Ld.out]; rfl) (ics_one _) (D.1 8 9 rfl rfl) (D.1 1 24 rfl rfl) hz),
    RO.put_ok rfl (fun γ a_ w_ D hz => fill 83 (.tmp 10) (.tmp 26) rfl (γ 9) (fo.cs) (zi30) (by rw [Fr.len Lfo.out]; exact size83) (by rw [Fr.len Lfo.out]; rfl) (ics_one _) (D.1 9 10 rfl rfl) (D.1 3 26 rfl rfl) hz),
    RO.put_ok rfl (fun γ a_ w_ D hz => fill 83 (.tmp 11) (.tmp 28) rfl (γ 10) (fp.cs) (zi30) (by rw [Fr.len Lfp.out]; exact size83) (by rw [Fr.len Lfp.out]; rfl) (ics_one _) (D.1 10 11 rfl rfl) (D.1 5 28 rfl rfl) hz),
    RO.put_ok rfl (fun γ a_ w_ D hz => fill 83 (.tmp 12) (.tmp 30) rfl (γ 11) (fq.cs) (zi30) (by rw [Fr.len Lfq.out]; exact size83) (by rw [Fr.len Lfq.out]; rfl) (ics_one _) (D.1 11 12 rfl rfl) (D.1 7 30 rfl rfl) hz),
    trivial⟩ ?_
  intro γ W13 F13
  simp only [RO.lexi, RO.vof, Act.put, List.setIfInBounds_toArray, List.set_cons_zero, List.set_cons_succ, List.getElem?_cons_zero, List.getElem?_cons_succ, List.take_succ_cons, List.take_zero]
  have HL0 := Lib.hid (Lp.mk (w := w) (W := W13) (o := fo.cs) (rwD (rwD (rwD (rwC HM12 F13.bel) (cbS (cs := ics d) (F13.row 8 _ _ _ rfl).2)) (cbS (cs := fp.cs) (F13.row 10 _ _ _ rfl).2)) (cbS (cs := fq.cs) (F13.row 11 _ _ _ rfl).2)).out (cbS (cs := fo.cs) (F13.row 9 _ _ _ rfl).2) (neC (F13.ne 11 9 _ _ _ _ _ _ (by decide) rfl rfl) (neC (F13.ne 10 9 _ _ _ _ _ _ (by decide) rfl rfl) (neC (F13.ne 8 9 _ _ _ _ _ _ (by decide) rfl rfl) (neO HM12 (F13.row 9 _ _ _ rfl).1)))) (bT HF12 F13.bel).out (Nat.le_trans HF12.out.size (F13.row 9 _ _ _ rfl).1))
  clear F13 HM12 HF12
  have HGR := HG10
  generalize γ 8 = gd at *
  generalize γ 9 = go at *
  generalize γ 10 = gx at *
  generalize γ 11 = gy at *
  clear γ
  go_wp2_with fail
  go_loopw [13] (fun i wr => ∃ n : Nat, ∃ f : Fr, n ≤ 256 ∧ i = .int .i64 ((n : Int) - 1) ∧ GD n f ∧ f.Ok ∧ Lp w _ go f.cs wr) (fun i _ => (intOf i + 1).toNat)
  case atStart => exact ⟨256, fo, by omega, rfl, H256.out, Lfo.out, HL0.out⟩
  case round =>
    obtain ⟨n, f, hn, rfl, hG, hok, hp⟩ := hrel
    have H0 := Lib.hid hp
    have HG0 := Lib.hid hG
    have Lf := Lib.hid hok
    clear hp hG hok HL0
    by_cases h0 : n = 0
    · subst h0
      go_wp2_with (first | ((with_reducible show wpList _ _ _ (⟨some 53, .load 83 (.tmp 10), _, _, _, _⟩ :: _) _ _); go_must (refine wpList_exec rfl (vF f) (loadFr (.tmp 10) rfl go f rfl H0.out.out Lf.out) ?_)) | fail)
      refine (HN.out f HG0.out _).mono ?_
      rintro e x1 ⟨rfl, hb⟩
      have H1 := Lib.hid (H0.out.keep hb)
      clear hb H0
      go_wp2_with (first | ((with_reducible show wpList _ _ _ (⟨none, .store 35 (.tmp 8) (.tmp 54), _, _, _, _⟩ :: _) _ _); go_must (refine wpList_put rfl 35 (.tmp 8) (.tmp 54) rfl gr rfl (bcs (encs [rx, ry])) (bcs (List.replicate 64 0)) rfl (Lp.get H1 3 rfl) (by rw [cr]; exact size35) (by rw [cr]; rfl) (bcs_one' _) H1.out.bel HGR.out ?_; intro y2 hc2 hb2; have HC := Lib.hid hc2; have HF := Lib.hid hb2; clear hc2 hb2)) | fail)
      obtain ⟨tr, htr⟩ := HC.out
      exact bodyPost_ret (results_cell_row rfl _ _ gr tr (bcs (encs [rx, ry])).toArray _ _ rfl htr Try.underlying35 rfl (by rw [List.size_toArray, cr]; exact size35)) rfl ⟨rfl, HF.out⟩
    · obtain ⟨i, rfl⟩ : ∃ i, n = i + 1 := ⟨n - 1, by omega⟩
      have hib : (i : Int) < 256 := by omega
      rw [show ((i + 1 : Nat) : Int) - 1 = (i : Int) from by omega]
      obtain ⟨u, hu, huc, hug⟩ := HD.out i f (by omega) HG0.out
      have Lu := Lib.hid hu
      have HUC := Lib.hid huc
      have HG1 := Lib.hid hug
      clear hu huc hug HG0
      have CA := Lib.hid (BA.out i (by omega))
      have CB := Lib.hid (BB.out i (by omega))
      go_wp2_with (first | ((with_reducible show wpList _ _ _ (⟨some 35, .load 65 (.tmp 9), _, _, _, _⟩ :: _) _ _); go_must (refine wpList_exec rfl (.agg (ics d).toArray) (loadW (.tmp 9) rfl gd d rfl (Lp.get H0 2 rfl) Ld.out) ?_)) | ((with_reducible show wpList _ _ _ (⟨some 36, .load 83 (.tmp 10), _, _, _, _⟩ :: _) _ _); go_must (refine wpList_exec rfl (vF f) (loadFr (.tmp 10) rfl go f rfl H0.out.out Lf.out) ?_)) | ((with_reducible show wpList _ _ _ (⟨some 37, .load 83 (.tmp 10), _, _, _, _⟩ :: _) _ _); go_must (refine wpList_exec rfl (vF f) (loadFr (.tmp 10) rfl go f rfl H0.out.out Lf.out) ?_)) | fail)
      refine (HUC.out _).mono ?_
      rintro e x1 ⟨rfl, hb⟩
      have H1 := Lib.hid (H0.out.keep hb)
      clear hb H0 HUC
      go_wp2_with (first | ((with_reducible show wpList _ _ _ (⟨none, .store 83 (.tmp 10) (.tmp 38), _, _, _, _⟩ :: _) _ _); go_must (refine wpList_set rfl 83 (.tmp 10) (.tmp 38) rfl go rfl u.cs f.cs rfl H1.out.out (by rw [Fr.len Lu.out]; exact size83) (by rw [Fr.len Lu.out, Fr.len Lf.out]) (ics_one _) ?_; intro y2 c2 g2; have H2 := Lib.hid (H1.out.set g2 c2); clear c2 g2 H1)) | ((with_reducible show wpList _ _ _ (⟨some 39, .load 23 (.tmp 4), _, _, _, _⟩ :: _) _ _); go_must (refine wpList_exec rfl (vN a) (loadN (.tmp 4) rfl w.heap.size a rfl (Lp.get H2 7 rfl)) ?_)) | fail)
      by_cases e1 : a / 2 ^ i % 2 = 1
      · rw [decide_eq_true e1] at CA
        refine (CA.out _).mono ?_
        rintro e x3 ⟨rfl, hb⟩
        have H3 := Lib.hid (H2.out.keep hb)
        clear hb H2
        obtain ⟨v, hv, hvc, hvg⟩ := HA1.out i u (by omega) HG1.out Lu.out e1
        have Lv := Lib.hid hv
        have HVC := Lib.hid hvc
        have HGV := Lib.hid hvg
        clear hv hvc hvg
        go_wp2_with (first | ((with_reducible show wpList _ _ _ (⟨some 42, .load 65 (.tmp 9), _, _, _, _⟩ :: _) _ _); go_must (refine wpList_exec rfl (.agg (ics d).toArray) (loadW (.tmp 9) rfl gd d rfl (Lp.get H3 2 rfl) Ld.out) ?_)) | ((with_reducible show wpList _ _ _ (⟨some 43, .load 83 (.tmp 10), _, _, _, _⟩ :: _) _ _); go_must (refine wpList_exec rfl (vF u) (loadFr (.tmp 10) rfl go u rfl H3.out.out Lu.out) ?_)) | ((with_reducible show wpList _ _ _ (⟨some 44, .load 83 (.tmp 11), _, _, _, _⟩ :: _) _ _); go_must (refine wpList_exec rfl (vF fp) (loadFr (.tmp 11) rfl gx fp rfl (Lp.get H3 1 rfl) Lfp.out) ?_)) | fail)
        refine (HVC.out _).mono ?_
        rintro e x4 ⟨rfl, hb⟩
        have H4 := Lib.hid (H3.out.keep hb)
        clear hb H3 HVC
        go_wp2_with (first | ((with_reducible show wpList _ _ _ (⟨none, .store 83 (.tmp 10) (.tmp 45), _, _, _, _⟩ :: _) _ _); go_must (refine wpList_set rfl 83 (.tmp 10) (.tmp 45) rfl go rfl v.cs u.cs rfl H4.out.out (by rw [Fr.len Lv.out]; exact size83) (by rw [Fr.len Lv.out, Fr.len Lu.out]) (ics_one _) ?_; intro y5 c5 g5; have H5 := Lib.hid (H4.out.set g5 c5); clear c5 g5 H4)) | ((with_reducible show wpList _ _ _ (⟨some 46, .load 23 (.tmp 6), _, _, _, _⟩ :: _) _ _); go_must (refine wpList_exec rfl (vN b) (loadN (.tmp 6) rfl gb b rfl (Lp.get H5 5 rfl)) ?_)) | fail)
        by_cases e2 : b / 2 ^ i % 2 = 1
        · rw [decide_eq_true e2] at CB
          refine (CB.out _).mono ?_
          rintro e x7 ⟨rfl, hb⟩
          have H7 := Lib.hid (H5.out.keep hb)
          clear hb H5
          obtain ⟨z, hz, hzc, hzg⟩ := HB1.out i v (by omega) HGV.out Lv.out e2
          have Lz := Lib.hid hz
          have HZC := Lib.hid hzc
          have HGZ := Lib.hid hzg
          clear hz hzc hzg
          go_wp2_with (first | ((with_reducible show wpList _ _ _ (⟨some 49, .load 65 (.tmp 9), _, _, _, _⟩ :: _) _ _); go_must (refine wpList_exec rfl (.agg (ics d).toArray) (loadW (.tmp 9) rfl gd d rfl (Lp.get H7 2 rfl) Ld.out) ?_)) | ((with_reducible show wpList _ _ _ (⟨some 50, .load 83 (.tmp 10), _, _, _, _⟩ :: _) _ _); go_must (refine wpList_exec rfl (vF v) (loadFr (.tmp 10) rfl go v rfl H7.out.out Lv.out) ?_)) | ((with_reducible show wpList _ _ _ (⟨some 51, .load 83 (.tmp 12), _, _, _, _⟩ :: _) _ _); go_must (refine wpList_exec rfl (vF fq) (loadFr (.tmp 12) rfl gy fq rfl (Lp.get H7 0 rfl) Lfq.out) ?_)) | fail)
          refine (HZC.out _).mono ?_
          rintro e x8 ⟨rfl, hb⟩
          have H8 := Lib.hid (H7.out.keep hb)
          clear hb H7 HZC
          go_wp2_with (first | ((with_reducible show wpList _ _ _ (⟨none, .store 83 (.tmp 10) (.tmp 52), _, _, _, _⟩ :: _) _ _); go_must (refine wpList_set rfl 83 (.tmp 10) (.tmp 52) rfl go rfl z.cs v.cs rfl H8.out.out (by rw [Fr.len Lz.out]; exact size83) (by rw [Fr.len Lz.out, Fr.len Lv.out]) (ics_one _) ?_; intro y9 c9 g9; have H9 := Lib.hid (H8.out.set g9 c9); clear c9 g9 H8)) | fail)
          exact ⟨⟨i, z, by omega, rfl, HGZ.out, Lz.out, H9.out⟩, by simp [intOf]⟩
        · rw [decide_eq_false e2] at CB
          refine (CB.out _).mono ?_
          rintro e x7 ⟨rfl, hb⟩
          have H7 := Lib.hid (H5.out.keep hb)
          clear hb H5
          go_wp2_with fail
          exact ⟨⟨i, v, by omega, rfl, HB0.out i v (by omega) HGV.out e2, Lv.out, H7.out⟩, by simp [intOf]⟩
      · rw [decide_eq_false e1] at CA
        refine (CA.out _).mono ?_
        rintro e x3 ⟨rfl, hb⟩
        have H3 := Lib.hid (H2.out.keep hb)
        clear hb H2
        have HGV := Lib.hid (HA0.out i u (by omega) HG1.out e1)
        go_wp2_with (first | ((with_reducible show wpList _ _ _ (⟨some 46, .load 23 (.tmp 6), _, _, _, _⟩ :: _) _ _); go_must (refine wpList_exec rfl (vN b) (loadN (.tmp 6) rfl gb b rfl (Lp.get H3 5 rfl)) ?_)) | fail)
        by_cases e2 : b / 2 ^ i % 2 = 1
        · rw [decide_eq_true e2] at CB
          refine (CB.out _).mono ?_
          rintro e x7 ⟨rfl, hb⟩
          have H7 := Lib.hid (H3.out.keep hb)
          clear hb H3
          obtain ⟨z, hz, hzc, hzg⟩ := HB1.out i u (by omega) HGV.out Lu.out e2
          have Lz := Lib.hid hz
          have HZC := Lib.hid hzc
          have HGZ := Lib.hid hzg
          clear hz hzc hzg
          go_wp2_with (first | ((with_reducible show wpList _ _ _ (⟨some 49, .load 65 (.tmp 9), _, _, _, _⟩ :: _) _ _); go_must (refine wpList_exec rfl (.agg (ics d).toArray) (loadW (.tmp 9) rfl gd d rfl (Lp.get H7 2 rfl) Ld.out) ?_)) | ((with_reducible show wpList _ _ _ (⟨some 50, .load 83 (.tmp 10), _, _, _, _⟩ :: _) _ _); go_must (refine wpList_exec rfl (vF u) (loadFr (.tmp 10) rfl go u rfl H7.out.out Lu.out) ?_)) | ((with_reducible show wpList _ _ _ (⟨some 51, .load 83 (.tmp 12), _, _, _, _⟩ :: _) _ _); go_must (refine wpList_exec rfl (vF fq) (loadFr (.tmp 12) rfl gy fq rfl (Lp.get H7 0 rfl) Lfq.out) ?_)) | fail)
          refine (HZC.out _).mono ?_
          rintro e x8 ⟨rfl, hb⟩
          have H8 := Lib.hid (H7.out.keep hb)
          clear hb H7 HZC
          go_wp2_with (first | ((with_reducible show wpList _ _ _ (⟨none, .store 83 (.tmp 10) (.tmp 52), _, _, _, _⟩ :: _) _ _); go_must (refine wpList_set rfl 83 (.tmp 10) (.tmp 52) rfl go rfl z.cs u.cs rfl H8.out.out (by rw [Fr.len Lz.out]; exact size83) (by rw [Fr.len Lz.out, Fr.len Lu.out]) (ics_one _) ?_; intro y9 c9 g9; have H9 := Lib.hid (H8.out.set g9 c9); clear c9 g9 H8)) | fail)
          exact ⟨⟨i, z, by omega, rfl, HGZ.out, Lz.out, H9.out⟩, by simp [intOf]⟩
        · rw [decide_eq_false e2] at CB
          refine (CB.out _).mono ?_
          rintro e x7 ⟨rfl, hb⟩
          have H7 := Lib.hid (H3.out.keep hb)
          clear hb H3
          go_wp2_with fail
          exact ⟨⟨i, u, by omega, rfl, HB0.out i u (by omega) HGV.out e2, Lu.out, H7.out⟩, by simp [intOf]⟩
end Go.Proofs.Ytgdimnbdnepbgaa
/- The reference's Small; bad points to Mul2. No statement is proved here. -/
namespace Go.Proofs.Ytgdimnbdnepbgaa
open Go.RowKit
set_option linter.unusedVariables false
set_option maxRecDepth 40000
set_option linter.unusedSimpArgs false

set_option maxHeartbeats 600000 in
theorem rSmall_P (px py rx ry : Nat) (b : Bool) (w : World)
    (C0 : Hid (∀ w, Calls Try.prog 49 #[vR [px, py]] w (Gives (.int .i64 0) w)))
    (C1 : Hid (∀ w, Calls Try.prog 18 #[.int .u64 8] w (Gives (vN 8) w)))
    (C2 : Hid (∀ w, Calls Try.prog 55 #[vN 8, vR [px, py]] w (Gives (vR [rx, ry]) w)))
    (C3 : Hid (∀ w, Calls Try.prog 84 #[] w (Gives (vR [0, 1]) w)))
    (HE : Hid (∀ w, (Op.equalIn 10000 35 (vR [rx, ry]) (vR [0, 1])).run Try.prog w = .ok b w)) :
    Calls Try.prog 56 #[vR [px, py]] w (Gives (.bool b) w) := by
  have HM0 : Hid (Rws w []) := rw0 w
  have HF0 : Hid (Below w.heap.size w w) := Lib.hid (Below.refl _ _)
  go_enter Try.func56, Try.ntmps56
  go_wp2_with (first | ((with_reducible show wpList _ _ _ (⟨some 1, .box 35 (.tmp 0), _, _, _, _⟩ :: _) _ _); go_must (refine wpList_box_row rfl 35 (.tmp 0) rfl (bcs (encs [px, py])).toArray rfl ?_; intro u1 a1 b1 c1; have HG2 : Hid (w.heap.size ≤ w.heap.size) := Lib.hid HF0.out.size; have HM2 := rwN HM0 (below_of_grownBy c1) (cbS (cs := bcs (encs [px, py])) a1); have HF2 := bT HF0 (below_of_grownBy c1); clear a1 b1 c1 HM0 HF0)) | fail)
  have HR : Hid (RAt u1 w.heap.size [px, py]) := Lib.hid (rwG HM2 0 rfl)
  refine region_wq (by kernel_rfl) (by kernel_rfl) ?_
  refine wq_loadP rfl (.tmp 1) rfl (w.heap.size) px py rfl HR.out ?_
  simp only [Act.put, List.setIfInBounds_toArray, List.set_cons_zero, List.set_cons_succ]
  refine wq_call rfl 49 [.tmp 3] #[35] rfl [vR [px, py]] rfl (CG49 _) (.int .i64 0) C0.out ?_
  simp only [Act.put, List.setIfInBounds_toArray, List.set_cons_zero, List.set_cons_succ]
  refine wq_bin (P := Try.prog) rfl .eql 36 36 (.tmp 4) (.const (.int .i64 0)) rfl (.int .i64 0) (.int .i64 0) (.bool true) rfl rfl (fun _ => rfl) (run_eq36 0 0 true rfl) ?_
  simp only [Act.put, List.setIfInBounds_toArray, List.set_cons_zero, List.set_cons_succ]
  refine wq_move rfl (.tmp 5) rfl (.bool true) rfl ?_
  simp only [Act.put, List.setIfInBounds_toArray, List.set_cons_zero, List.set_cons_succ]
  refine wq_call rfl 18 [.const (.int .u64 8)] #[24] rfl [.int .u64 8] rfl (CG18 _) (vN 8) C1.out ?_
  simp only [Act.put, List.setIfInBounds_toArray, List.set_cons_zero, List.set_cons_succ]
  refine wq_loadP rfl (.tmp 1) rfl (w.heap.size) px py rfl HR.out ?_
  simp only [Act.put, List.setIfInBounds_toArray, List.set_cons_zero, List.set_cons_succ]
  refine wq_call rfl 55 [.tmp 7, .tmp 8] #[23, 35] rfl [vN 8, vR [px, py]] rfl (CG55 _) (vR [rx, ry]) C2.out ?_
  simp only [Act.put, List.setIfInBounds_toArray, List.set_cons_zero, List.set_cons_succ]
  refine wq_call rfl 84 [] #[] rfl [] rfl (CG84 _) (vR [0, 1]) C3.out ?_
  simp only [Act.put, List.setIfInBounds_toArray, List.set_cons_zero, List.set_cons_succ]
  refine wq_eqP rfl (.tmp 9) (.tmp 10) rfl rx ry 0 1 rfl rfl b HE.out ?_
  simp only [Act.put, List.setIfInBounds_toArray, List.set_cons_zero, List.set_cons_succ]
  refine wq_pick rfl (.tmp 6) (.tmp 11) (.const (.bool false)) rfl true rfl (.bool b) rfl ?_
  simp only [Act.put, List.setIfInBounds_toArray, List.set_cons_zero, List.set_cons_succ]
  refine wq_assign rfl (.tmp 12) rfl (.bool b) rfl ?_
  simp only [Act.put, List.setIfInBounds_toArray, List.set_cons_zero, List.set_cons_succ]
  refine wq_nil ?_
  intro W hb
  have HBW := bT HF2 hb
  clear hb HF2 HM2 HR
  go_wp2
  go_ret
  exact ⟨rfl, HBW.out⟩

set_option maxHeartbeats 600000 in
theorem rSmall_bad (px py : Nat) (w : World)
    (C0 : Hid (∀ w, Calls Try.prog 49 #[vR [px, py]] w (Gives (.int .i64 2) w))) :
    Calls Try.prog 56 #[vR [px, py]] w (Gives (.bool false) w) := by
  have HM0 : Hid (Rws w []) := rw0 w
  have HF0 : Hid (Below w.heap.size w w) := Lib.hid (Below.refl _ _)
  go_enter Try.func56, Try.ntmps56
  go_wp2_with (first | ((with_reducible show wpList _ _ _ (⟨some 1, .box 35 (.tmp 0), _, _, _, _⟩ :: _) _ _); go_must (refine wpList_box_row rfl 35 (.tmp 0) rfl (bcs (encs [px, py])).toArray rfl ?_; intro u1 a1 b1 c1; have HG2 : Hid (w.heap.size ≤ w.heap.size) := Lib.hid HF0.out.size; have HM2 := rwN HM0 (below_of_grownBy c1) (cbS (cs := bcs (encs [px, py])) a1); have HF2 := bT HF0 (below_of_grownBy c1); clear a1 b1 c1 HM0 HF0)) | fail)
  have HR : Hid (RAt u1 w.heap.size [px, py]) := Lib.hid (rwG HM2 0 rfl)
  refine region_wq (by kernel_rfl) (by kernel_rfl) ?_
  refine wq_loadP rfl (.tmp 1) rfl (w.heap.size) px py rfl HR.out ?_
  simp only [Act.put, List.setIfInBounds_toArray, List.set_cons_zero, List.set_cons_succ]
  refine wq_call rfl 49 [.tmp 3] #[35] rfl [vR [px, py]] rfl (CG49 _) (.int .i64 2) C0.out ?_
  simp only [Act.put, List.setIfInBounds_toArray, List.set_cons_zero, List.set_cons_succ]
  refine wq_bin (P := Try.prog) rfl .eql 36 36 (.tmp 4) (.const (.int .i64 0)) rfl (.int .i64 2) (.int .i64 0) (.bool false) rfl rfl (fun _ => rfl) (run_eq36 2 0 false rfl) ?_
  simp only [Act.put, List.setIfInBounds_toArray, List.set_cons_zero, List.set_cons_succ]
  refine wq_move rfl (.tmp 5) rfl (.bool false) rfl ?_
  simp only [Act.put, List.setIfInBounds_toArray, List.set_cons_zero, List.set_cons_succ]
  refine wq_skip (by kernel_rfl) ?_
  simp only [Act.put, List.setIfInBounds_toArray, List.set_cons_zero, List.set_cons_succ]
  refine wq_skip (by kernel_rfl) ?_
  simp only [Act.put, List.setIfInBounds_toArray, List.set_cons_zero, List.set_cons_succ]
  refine wq_skip (by kernel_rfl) ?_
  simp only [Act.put, List.setIfInBounds_toArray, List.set_cons_zero, List.set_cons_succ]
  refine wq_skip (by kernel_rfl) ?_
  simp only [Act.put, List.setIfInBounds_toArray, List.set_cons_zero, List.set_cons_succ]
  refine wq_skip (by kernel_rfl) ?_
  simp only [Act.put, List.setIfInBounds_toArray, List.set_cons_zero, List.set_cons_succ]
  refine wq_pick rfl (.tmp 6) (.tmp 11) (.const (.bool false)) rfl false rfl (.bool false) rfl ?_
  simp only [Act.put, List.setIfInBounds_toArray, List.set_cons_zero, List.set_cons_succ]
  refine wq_assign rfl (.tmp 12) rfl (.bool false) rfl ?_
  simp only [Act.put, List.setIfInBounds_toArray, List.set_cons_zero, List.set_cons_succ]
  refine wq_nil ?_
  intro W hb
  have HBW := bT HF2 hb
  clear hb HF2 HM2 HR
  go_wp2
  go_ret
  exact ⟨rfl, HBW.out⟩

set_option maxHeartbeats 600000 in
theorem rMul2_bad1 (a b px py qx qy : Nat) (w : World)
    (C0 : Hid (∀ w, Calls Try.prog 49 #[vR [px, py]] w (Gives (.int .i64 2) w)))
    (C1 : Hid (∀ w, Calls Try.prog 84 #[] w (Gives (vR [0, 1]) w))) :
    Calls Try.prog 54 #[vN a, vR [px, py], vN b, vR [qx, qy]] w (Gives (vR [0, 1]) w) := by
  have HM0 : Hid (Rws w []) := rw0 w
  have HF0 : Hid (Below w.heap.size w w) := Lib.hid (Below.refl _ _)
  go_enter Try.func54, Try.ntmps54
  go_wp2_with (first | ((with_reducible show wpList _ _ _ (⟨some 4, .box 23 (.tmp 0), _, _, _, _⟩ :: _) _ _); go_must (refine wpList_box_row rfl 23 (.tmp 0) rfl (bcs (enc a)).toArray rfl ?_; intro u1 a1 b1 c1; have HG2 : Hid (w.heap.size ≤ w.heap.size) := Lib.hid HF0.out.size; have HM2 := rwN HM0 (below_of_grownBy c1) (cbS (cs := bcs (enc a)) a1); have HF2 := bT HF0 (below_of_grownBy c1); clear a1 b1 c1 HM0 HF0)) | ((with_reducible show wpList _ _ _ (⟨some 5, .box 35 (.tmp 1), _, _, _, _⟩ :: _) _ _); go_must (refine wpList_box_row rfl 35 (.tmp 1) rfl (bcs (encs [px, py])).toArray rfl ?_; intro u3 a3 b3 c3; have HG4 : Hid (w.heap.size ≤ u1.heap.size) := Lib.hid HF2.out.size; have HM4 := rwN HM2 (below_of_grownBy c3) (cbS (cs := bcs (encs [px, py])) a3); have HF4 := bT HF2 (below_of_grownBy c3); clear a3 b3 c3 HM2 HF2)) | ((with_reducible show wpList _ _ _ (⟨some 6, .box 23 (.tmp 2), _, _, _, _⟩ :: _) _ _); go_must (refine wpList_box_row rfl 23 (.tmp 2) rfl (bcs (enc b)).toArray rfl ?_; intro u5 a5 b5 c5; have HG6 : Hid (w.heap.size ≤ u3.heap.size) := Lib.hid HF4.out.size; have HM6 := rwN HM4 (below_of_grownBy c5) (cbS (cs := bcs (enc b)) a5); have HF6 := bT HF4 (below_of_grownBy c5); clear a5 b5 c5 HM4 HF4)) | ((with_reducible show wpList _ _ _ (⟨some 7, .box 35 (.tmp 3), _, _, _, _⟩ :: _) _ _); go_must (refine wpList_box_row rfl 35 (.tmp 3) rfl (bcs (encs [qx, qy])).toArray rfl ?_; intro u7 a7 b7 c7; have HG8 : Hid (w.heap.size ≤ u5.heap.size) := Lib.hid HF6.out.size; have HM8 := rwN HM6 (below_of_grownBy c7) (cbS (cs := bcs (encs [qx, qy])) a7); have HF8 := bT HF6 (below_of_grownBy c7); clear a7 b7 c7 HM6 HF6)) | ((with_reducible show wpList _ _ _ (⟨some 8, .alloc 35, _, _, _, _⟩ :: _) _ _); go_must (refine wpList_alloc_row rfl 35 rfl (.agg (zbs 64)) zero35 ?_; intro u9 a9 b9 c9; have HG10 : Hid (w.heap.size ≤ u7.heap.size) := Lib.hid HF8.out.size; have HM10 := rwN HM8 (below_of_grownBy c9) (cbS (cs := bcs (List.replicate 64 0)) a9); have HF10 := bT HF8 (below_of_grownBy c9); clear a9 b9 c9 HM8 HF8)) | ((with_reducible show wpList _ _ _ (⟨some 14, .load 35 (.tmp 5), _, _, _, _⟩ :: _) _ _); go_must (refine wpList_exec rfl (vR [px, py]) (loadP (.tmp 5) rfl (u1.heap.size) px py rfl (rwG HM10 3 rfl)) ?_)) | fail)
  generalize u1.heap.size = gp at *
  generalize u3.heap.size = gb at *
  generalize u5.heap.size = gq at *
  generalize u7.heap.size = gr at *
  refine (C0.out _).mono ?_
  rintro e11 x11 ⟨rfl, hb11⟩
  have HM11 := rwC HM10 hb11
  have HF11 := bT HF10 hb11
  clear hb11 HM10 HF10
  go_wp2_with fail
  refine (C1.out _).mono ?_
  rintro e12 x12 ⟨rfl, hb12⟩
  have HM12 := rwC HM11 hb12
  have HF12 := bT HF11 hb12
  clear hb12 HM11 HF11
  go_wp2_with (first | ((with_reducible show wpList _ _ _ (⟨none, .store 35 (.tmp 8) (.tmp 22), _, _, _, _⟩ :: _) _ _); go_must (refine wpList_put rfl 35 (.tmp 8) (.tmp 22) rfl (gr) rfl (bcs (encs [0, 1])) (bcs (List.replicate 64 0)) rfl (rwG HM12 0 rfl) (by rw [cr]; exact size35) (by rw [cr]; rfl) (bcs_one' _) HF12.out HG10.out ?_; intro y13 hc13 hb13; have HC13 := Lib.hid hc13; have HF13 := Lib.hid hb13; clear hc13 hb13 HM12 HF12)) | fail)
  obtain ⟨tr, htr⟩ := HC13.out
  exact bodyPost_ret (results_cell_row rfl _ _ (gr) tr (bcs (encs [0, 1])).toArray _ _ rfl htr Try.underlying35 rfl (by rw [List.size_toArray, cr]; exact size35)) rfl ⟨rfl, HF13.out⟩

set_option maxHeartbeats 600000 in
theorem rMul2_bad2 (a b px py qx qy : Nat) (w : World)
    (C0 : Hid (∀ w, Calls Try.prog 49 #[vR [px, py]] w (Gives (.int .i64 0) w)))
    (C1 : Hid (∀ w, Calls Try.prog 49 #[vR [qx, qy]] w (Gives (.int .i64 2) w)))
    (C2 : Hid (∀ w, Calls Try.prog 84 #[] w (Gives (vR [0, 1]) w))) :
    Calls Try.prog 54 #[vN a, vR [px, py], vN b, vR [qx, qy]] w (Gives (vR [0, 1]) w) := by
  have HM0 : Hid (Rws w []) := rw0 w
  have HF0 : Hid (Below w.heap.size w w) := Lib.hid (Below.refl _ _)
  go_enter Try.func54, Try.ntmps54
  go_wp2_with (first | ((with_reducible show wpList _ _ _ (⟨some 4, .box 23 (.tmp 0), _, _, _, _⟩ :: _) _ _); go_must (refine wpList_box_row rfl 23 (.tmp 0) rfl (bcs (enc a)).toArray rfl ?_; intro u1 a1 b1 c1; have HG2 : Hid (w.heap.size ≤ w.heap.size) := Lib.hid HF0.out.size; have HM2 := rwN HM0 (below_of_grownBy c1) (cbS (cs := bcs (enc a)) a1); have HF2 := bT HF0 (below_of_grownBy c1); clear a1 b1 c1 HM0 HF0)) | ((with_reducible show wpList _ _ _ (⟨some 5, .box 35 (.tmp 1), _, _, _, _⟩ :: _) _ _); go_must (refine wpList_box_row rfl 35 (.tmp 1) rfl (bcs (encs [px, py])).toArray rfl ?_; intro u3 a3 b3 c3; have HG4 : Hid (w.heap.size ≤ u1.heap.size) := Lib.hid HF2.out.size; have HM4 := rwN HM2 (below_of_grownBy c3) (cbS (cs := bcs (encs [px, py])) a3); have HF4 := bT HF2 (below_of_grownBy c3); clear a3 b3 c3 HM2 HF2)) | ((with_reducible show wpList _ _ _ (⟨some 6, .box 23 (.tmp 2), _, _, _, _⟩ :: _) _ _); go_must (refine wpList_box_row rfl 23 (.tmp 2) rfl (bcs (enc b)).toArray rfl ?_; intro u5 a5 b5 c5; have HG6 : Hid (w.heap.size ≤ u3.heap.size) := Lib.hid HF4.out.size; have HM6 := rwN HM4 (below_of_grownBy c5) (cbS (cs := bcs (enc b)) a5); have HF6 := bT HF4 (below_of_grownBy c5); clear a5 b5 c5 HM4 HF4)) | ((with_reducible show wpList _ _ _ (⟨some 7, .box 35 (.tmp 3), _, _, _, _⟩ :: _) _ _); go_must (refine wpList_box_row rfl 35 (.tmp 3) rfl (bcs (encs [qx, qy])).toArray rfl ?_; intro u7 a7 b7 c7; have HG8 : Hid (w.heap.size ≤ u5.heap.size) := Lib.hid HF6.out.size; have HM8 := rwN HM6 (below_of_grownBy c7) (cbS (cs := bcs (encs [qx, qy])) a7); have HF8 := bT HF6 (below_of_grownBy c7); clear a7 b7 c7 HM6 HF6)) | ((with_reducible show wpList _ _ _ (⟨some 8, .alloc 35, _, _, _, _⟩ :: _) _ _); go_must (refine wpList_alloc_row rfl 35 rfl (.agg (zbs 64)) zero35 ?_; intro u9 a9 b9 c9; have HG10 : Hid (w.heap.size ≤ u7.heap.size) := Lib.hid HF8.out.size; have HM10 := rwN HM8 (below_of_grownBy c9) (cbS (cs := bcs (List.replicate 64 0)) a9); have HF10 := bT HF8 (below_of_grownBy c9); clear a9 b9 c9 HM8 HF8)) | ((with_reducible show wpList _ _ _ (⟨some 14, .load 35 (.tmp 5), _, _, _, _⟩ :: _) _ _); go_must (refine wpList_exec rfl (vR [px, py]) (loadP (.tmp 5) rfl (u1.heap.size) px py rfl (rwG HM10 3 rfl)) ?_)) | fail)
  generalize u1.heap.size = gp at *
  generalize u3.heap.size = gb at *
  generalize u5.heap.size = gq at *
  generalize u7.heap.size = gr at *
  refine (C0.out _).mono ?_
  rintro e11 x11 ⟨rfl, hb11⟩
  have HM11 := rwC HM10 hb11
  have HF11 := bT HF10 hb11
  clear hb11 HM10 HF10
  go_wp2_with (first | ((with_reducible show wpList _ _ _ (⟨some 18, .load 35 (.tmp 7), _, _, _, _⟩ :: _) _ _); go_must (refine wpList_exec rfl (vR [qx, qy]) (loadP (.tmp 7) rfl (gq) qx qy rfl (rwG HM11 1 rfl)) ?_)) | fail)
  refine (C1.out _).mono ?_
  rintro e12 x12 ⟨rfl, hb12⟩
  have HM12 := rwC HM11 hb12
  have HF12 := bT HF11 hb12
  clear hb12 HM11 HF11
  go_wp2_with fail
  refine (C2.out _).mono ?_
  rintro e13 x13 ⟨rfl, hb13⟩
  have HM13 := rwC HM12 hb13
  have HF13 := bT HF12 hb13
  clear hb13 HM12 HF12
  go_wp2_with (first | ((with_reducible show wpList _ _ _ (⟨none, .store 35 (.tmp 8) (.tmp 22), _, _, _, _⟩ :: _) _ _); go_must (refine wpList_put rfl 35 (.tmp 8) (.tmp 22) rfl (gr) rfl (bcs (encs [0, 1])) (bcs (List.replicate 64 0)) rfl (rwG HM13 0 rfl) (by rw [cr]; exact size35) (by rw [cr]; rfl) (bcs_one' _) HF13.out HG10.out ?_; intro y14 hc14 hb14; have HC14 := Lib.hid hc14; have HF14 := Lib.hid hb14; clear hc14 hb14 HM13 HF13)) | fail)
  obtain ⟨tr, htr⟩ := HC14.out
  exact bodyPost_ret (results_cell_row rfl _ _ (gr) tr (bcs (encs [0, 1])).toArray _ _ rfl htr Try.underlying35 rfl (by rw [List.size_toArray, cr]; exact size35)) rfl ⟨rfl, HF14.out⟩
end Go.Proofs.Ytgdimnbdnepbgaa
/- Bytes as arrays; Bytes and Read over points. No statement is proved here. -/
namespace Go.Proofs.Ytgdimnbdnepbgaa
open Go.RowKit
set_option linter.unusedVariables false
set_option maxRecDepth 40000
set_option linter.unusedSimpArgs false

/-- A number is stored into a row of numbers. -/
theorem exec_store22 {o : Oper} {a : Act} {w : World} (p x : Operand) (ho : o.op = .store 22 p x) (g i off : Nat) (he : off = 32 * i) (l : List Nat) (n : Nat) (hp : a.eval p = .pointer (some ⟨g, off, none⟩)) (hx : a.eval x = vN n) (hr : RAt w g l) (hi : i < l.length) :
    ∃ w', (execOp a.eval o).run Try.prog w = .ok .skip w' ∧ RAt w' g (l.set i n) ∧ w.grownBy w' (some g) ∧ w'.heap.size = w.heap.size := by
  subst he
  obtain ⟨t, ht⟩ := hr
  have hq : ∃ i, Try.prog.info? 22 = some i ∧ i.size = 32 := by
    have := size22
    cases h : Try.prog.info? 22 with
    | none => rw [h] at this; simp at this
    | some i => exact ⟨i, rfl, by rw [h] at this; simpa using this⟩
  obtain ⟨k, hk, hs⟩ := hq
  have hst := run_storeCells_at Try.prog g (32 * i) t (bcs (enc n)) 0 (bcs (encs l)).toArray w ht (by rw [List.size_toArray, bcs_len, bcs_len, encs_len, enc_len]; omega) (bcs_one _)
  simp only [Nat.add_zero] at hst
  have e : (((bcs (encs l)).toArray.toList.take (32 * i) ++ bcs (enc n) ++ (bcs (encs l)).toArray.toList.drop (32 * i + (bcs (enc n)).length)).toArray) = (bcs (encs (l.set i n))).toArray := by
    rw [bcs_enc_len, ← encs_set l i n hi, bcs_append, bcs_append]
    simp [bcs]
  rw [e] at hst
  have hrun : (Instr.storeAt 22 (.pointer (some ⟨g, 32 * i, none⟩)) (vN n)).run Try.prog w = .ok () (w.setRow g (bcs (encs (l.set i n))).toArray) := by
    have hc : (vN n).cells.size = 32 := by show (bcs (enc n)).toArray.size = 32; rw [List.size_toArray, bcs_enc_len]
    have hc2 : (vN n).cells.toList = bcs (enc n) := rfl
    simp [Instr.storeAt, Instr.sureAddr, storeVar, sizeOf, typeInfo, hk, hs, hc, hc2, hst]
  refine ⟨_, ?_, ⟨t, setRow_heap w g _ _ t _ ht⟩, setRow_grown w g _, by simp⟩
  unfold execOp
  simp only [ho, hp, hx, Sem.run_bind, Sem.run_pure, Result.andThen_ok, hrun]
theorem wpList_store22 {ops : Array Oper} {rest : List Oper} {o : Oper} {a : Act} {w : World} {Q : Exit → Act → World → Prop} (hgd : Region.wanted o (yielded ops a.tmps) = true) (p x : Operand) (ho : o.op = .store 22 p x) (g i off : Nat) (he : off = 32 * i) (l : List Nat) (n : Nat) (hp : a.eval p = .pointer (some ⟨g, off, none⟩)) (hx : a.eval x = vN n) (hr : RAt w g l) (hi : i < l.length)
    (h : ∀ w', RAt w' g (l.set i n) → w.grownBy w' (some g) → w'.heap.size = w.heap.size → wpList Try.prog ops Q rest (a.put o.dst undef) w') : wpList Try.prog ops Q (o :: rest) a w := by
  refine wpList_want hgd fun K hK => ?_
  obtain ⟨w', h1, h2, h3, h4⟩ := exec_store22 (a := a) p x ho g i off he l n hp hx hr hi
  unfold Oper.wp
  rw [h1]
  exact hK _ _ (h w' h2 h3 h4)
theorem keyLits22 (l : List UInt8) (hl : l.length = 32) : Try.prog.keyLits 2 22 (Value.agg (bcs l).toArray).cells.toList = some (l.map fun b => Lit.int .u8 (b.toNat : Int)) := by
  have h := keyLits_ints (P := Try.prog) (t := 22) (e := 5) (n := 32) (k := .u8) under22 Try.underlying5 (by kernel_rfl) (by kernel_rfl) (l.map fun b => (b.toNat : Int)) (by simpa using hl) (wf8 l)
  rw [← bcs_ints] at h
  rw [show (Value.agg (bcs l).toArray).cells.toList = bcs l from rfl, h, List.map_map]
  rfl
theorem eq22 (a b : List UInt8) (ha : a.length = 32) (hb : b.length = 32) (w : World) : (Op.equalIn 10000 22 (.agg (bcs a).toArray) (.agg (bcs b).toArray)).run Try.prog w = .ok (decide (a = b)) w := by
  have hk : Try.prog.keyTypeAt 2 22 = true := by kernel_rfl
  have hf : ∀ l : List UInt8, l.length = 32 → (Value.agg (bcs l).toArray).formed Try.prog 22 = true := by
    intro l hl
    have hc : Try.prog.cellsOf 22 = 32 := by kernel_rfl
    simp [Value.formed, hc, bcs_len, hl]
  obtain ⟨r, hr, hiff⟩ := run_equalIn_deep (P := Try.prog) 9998 2 22 hk w 2 2 _ _ _ _ (hf a ha) (hf b hb) (keyLits22 a ha) (keyLits22 b hb)
  rw [hr]
  congr 1
  by_cases h : a = b
  · subst h
    rw [decide_eq_true rfl]
    exact hiff.2 rfl
  · rw [decide_eq_false h]
    cases r
    · rfl
    · exact absurd (lits_inj a b (hiff.1 rfl)) h
theorem eqN22 (m n : Nat) (hm : m < TT) (hn : n < TT) (w : World) : (Op.equalIn 10000 22 (vN m) (vN n)).run Try.prog w = .ok (decide (m = n)) w := by
  have h := eq22 (enc m) (enc n) (enc_len m) (enc_len n) w
  rw [show (Value.agg (bcs (enc m)).toArray) = vN m from rfl, show (Value.agg (bcs (enc n)).toArray) = vN n from rfl] at h
  rw [h]
  congr 1
  rw [Bool.eq_iff_iff, decide_eq_true_eq, decide_eq_true_eq]
  exact ⟨fun h => enc_inj hm hn h, fun h => by rw [h]⟩
section
variable {o : Oper} {a : Act}
theorem exec_eq22 {w : World} {m n : Nat} {b : Bool} (x y : Operand) (ho : o.op = .binOp .eql 22 x y 22) (hx : a.eval x = vN m) (hy : a.eval y = vN n) (hb : (Op.equalIn 10000 22 (vN m) (vN n)).run Try.prog w = .ok b w) : (execOp a.eval o).run Try.prog w = .ok (.value (.bool b)) w := by
  have hg : ∀ (x y : Operand), (eqGuard .eql 22 x y (vN m) (vN n)).run Try.prog w = .ok () w := fun x y => run_eqGuard_agg w .eql 22 x y _ _ Try.eqGuardType22
  have hbin : (binOp .eql 22 (vN m) (vN n)).run Try.prog w = .ok (.bool b) w := by
    show (do pure (.bool (← Op.equal 22 (vN m) (vN n))) : Sem Value).run Try.prog w = _
    rw [Sem.run_bind, show (Op.equal 22 (vN m) (vN n)) = Op.equalIn 10000 22 (vN m) (vN n) from rfl, hb]
    rfl
  unfold execOp
  simp only [ho, hx, hy, Sem.run_bind, Sem.run_pure, Result.andThen_ok, hg, hbin]
theorem exec_neq22 {w : World} {m n : Nat} {b : Bool} (x y : Operand) (ho : o.op = .binOp .neq 22 x y 22) (hx : a.eval x = vN m) (hy : a.eval y = vN n) (hb : (Op.equalIn 10000 22 (vN m) (vN n)).run Try.prog w = .ok b w) : (execOp a.eval o).run Try.prog w = .ok (.value (.bool (!b))) w := by
  have hg : ∀ (x y : Operand), (eqGuard .neq 22 x y (vN m) (vN n)).run Try.prog w = .ok () w := fun x y => run_eqGuard_agg w .neq 22 x y _ _ Try.eqGuardType22
  have hbin : (binOp .neq 22 (vN m) (vN n)).run Try.prog w = .ok (.bool (!b)) w := by
    show (do pure (.bool (!(← Op.equal 22 (vN m) (vN n)))) : Sem Value).run Try.prog w = _
    rw [Sem.run_bind, show (Op.equal 22 (vN m) (vN n)) = Op.equalIn 10000 22 (vN m) (vN n) from rfl, hb]
    rfl
  unfold execOp
  simp only [ho, hx, hy, Sem.run_bind, Sem.run_pure, Result.andThen_ok, hg, hbin]
end
namespace Ed
variable {n : Nat} [NeZero n]
/-- d y^2 + 1 is never 0. -/
theorem den_y (E : Ed n) (y : Fin n) : E.d * (y * y) + 1 ≠ 0 := by
  intro h
  have hy : y ≠ 0 := fun h0 => E.h1 (by rw [h0] at h; grind)
  have hi := E.hi
  have hv := E.hinv y hy
  refine E.hd (E.i * E.inv y) ?_
  apply E.cancel (E.mul_ne hy hy)
  have e : y * y * (E.i * E.inv y * (E.i * E.inv y)) = E.i * E.i * (y * E.inv y) * (y * E.inv y) := by grind
  rw [e, hi, hv]
  grind
theorem On_x (E : Ed n) {x y : Fin n} (h : E.On x y) : (y * y - 1) * E.inv (E.d * (y * y) + 1) = x * x := by
  have hv := E.hinv _ (E.den_y y)
  unfold On at h
  generalize E.inv (E.d * (y * y) + 1) = v at *
  have e : y * y - 1 = x * x * (E.d * (y * y) + 1) := by grind
  rw [e]
  grind
theorem x_On (E : Ed n) {x y : Fin n} (h : x * x = (y * y - 1) * E.inv (E.d * (y * y) + 1)) : E.On x y := by
  have hv := E.hinv _ (E.den_y y)
  unfold On
  generalize E.inv (E.d * (y * y) + 1) = v at *
  have e : x * x * (E.d * (y * y) + 1) = y * y - 1 := by rw [h]; grind
  grind
end Ed
theorem P_odd : PP % 2 = 1 := by unfold PP; rfl
theorem sqv (x : Fin PP) : (x * x).val = x.val * x.val % PP := Fin.val_mul x x
/-- The root that Read takes. -/
noncomputable def rtY (k : Nat) (y : Fin PP) : Nat × Bool := rt PP k ((y * y - 1) * fInv (dF * (y * y) + 1)).val
theorem rtY_on (k : Nat) (hk : PP = 8 * k + 5) (x y : Fin PP) (h : EC.On x y) : rtY k y = (evn PP x.val, true) := by
  have e : (y * y - 1) * fInv (dF * (y * y) + 1) = x * x := EC.On_x h
  unfold rtY
  rw [e, sqv]
  by_cases h0 : x = 0
  · subst h0
    rw [v0, Nat.zero_mul, Nat.zero_mod, rt_zero]
    rfl
  · have hd : ¬ PP ∣ x.val := fun hd => val_ne h0 (Nat.mod_eq_zero_of_dvd hd)
    have h := rt_square prP hk (htwo k hk) x.val hd
    rw [Nat.mod_eq_of_lt x.isLt] at h
    exact h
theorem rtY_ok (k : Nat) (hk : PP = 8 * k + 5) (y : Fin PP) (h : (rtY k y).2 = true) : ∃ x : Fin PP, EC.On x y ∧ (rtY k y).1 = x.val ∧ x.val % 2 = 0 := by
  obtain ⟨h1, h2⟩ := rt_sq prP hk (htwo k hk) _ h
  have hlt := rt_lt prP hk ((y * y - 1) * fInv (dF * (y * y) + 1)).val
  refine ⟨⟨(rtY k y).1, hlt⟩, ?_, rfl, h2⟩
  apply EC.x_On
  apply Fin.ext
  rw [Fin.val_mul]
  show (rtY k y).1 * (rtY k y).1 % PP = ((y * y - 1) * fInv (dF * (y * y) + 1)).val
  have := h1
  rw [Nat.mod_eq_of_lt (Fin.isLt _)] at this
  exact this
theorem neg_val (x : Fin PP) (h : x ≠ 0) : (-x).val = PP - x.val := by
  have hx : x.val ≠ 0 := fun h0 => h (Fin.ext h0)
  have e : (-x).val = (PP - x.val) % PP := rfl
  rw [e, Nat.mod_eq_of_lt (by have := x.isLt; omega)]
def HH : Nat := 57896044618658097711785492504343953926634992332820282019728792003956564819968
theorem HH_eq : HH = 128 * 256 ^ 31 := by unfold HH; rfl
theorem PH : PP < HH := by unfold PP HH; omega
theorem HT2 : TT = HH + HH := by unfold TT HH; omega
/-- The bytes of a point, as a number. -/
def bts (x y : Fin PP) : Nat := if x.val % 2 = 1 then y.val + HH else y.val
theorem bts_lt (x y : Fin PP) : bts x y < TT := by
  unfold bts
  have := y.isLt
  have := PH
  rw [HT2]
  split <;> omega
/-- The highest bit, set or not. -/
theorem top_set (y : Nat) (hy : y < HH) : ((enc y).getD 31 0).toNat < 128 ∧ (enc y).set 31 (UInt8.ofNat (((enc y).getD 31 0).toNat + 128)) = enc (y + HH) := by
  have hT : y < TT := by rw [HT2]; omega
  have hb := enc_byte y hT 31
  have h1 : y / 256 ^ 31 < 128 := by rw [Nat.div_lt_iff_lt_mul (by decide)]; rw [HH_eq] at hy; exact hy
  have h2 : ((enc y).getD 31 0).toNat < 128 := by rw [hb]; exact Nat.lt_of_le_of_lt (Nat.mod_le _ _) h1
  refine ⟨h2, bytes_eq _ _ (by rw [HT2]; omega) (by rw [List.length_set, enc_len]) fun j hj => ?_⟩
  have hHT : y + HH < TT := by rw [HT2]; omega
  by_cases e : 31 = j
  · subst e
    rw [getD_set_eq8 _ _ _ (by rw [enc_len]; omega), of_byte, hb, HH_eq, Nat.add_mul_div_right _ _ (by decide)]
    omega
  · rw [getD_set_ne8 _ _ _ _ e, enc_byte y hT j]
    have : HH = 256 ^ j * (128 * 256 ^ (31 - j)) := by rw [HH_eq, show 256 ^ 31 = 256 ^ j * 256 ^ (31 - j) from by rw [← Nat.pow_add]; congr 1; omega]; ac_rfl
    rw [this, Nat.add_mul_div_left _ _ (Nat.pow_pos (by decide))]
    have : 128 * 256 ^ (31 - j) = 256 * (128 * 256 ^ (30 - j)) := by rw [show 31 - j = (30 - j) + 1 from by omega, Nat.pow_succ]; ac_rfl
    rw [this, Nat.add_mul_mod_self_left]
theorem top_clear (y : Nat) (hy : y < HH) : 128 ≤ ((enc (y + HH)).getD 31 0).toNat ∧ (enc (y + HH)).set 31 (UInt8.ofNat (((enc (y + HH)).getD 31 0).toNat - 128)) = enc y := by
  obtain ⟨h1, h2⟩ := top_set y hy
  rw [← h2, getD_set_eq8 _ _ _ (by rw [enc_len]; omega), of_byte, Nat.mod_eq_of_lt (by omega), Nat.add_sub_cancel]
  refine ⟨by omega, ?_⟩
  rw [List.set_set]
  have : UInt8.ofNat ((enc y).getD 31 0).toNat = (enc y).getD 31 0 := by apply UInt8.toNat_inj.1; rw [of_byte, Nat.mod_eq_of_lt (UInt8.toNat_lt _)]
  rw [this]
  have hg : (enc y).getD 31 0 = (enc y)[31]'(by rw [enc_len]; omega) := by rw [List.getD_eq_getElem?_getD, List.getElem?_eq_getElem (by rw [enc_len]; omega)]; rfl
  rw [hg]
  exact List.set_getElem_self _
theorem top_same (y : Nat) : (enc y).set 31 (UInt8.ofNat ((enc y).getD 31 0).toNat) = enc y := by
  have : UInt8.ofNat ((enc y).getD 31 0).toNat = (enc y).getD 31 0 := by apply UInt8.toNat_inj.1; rw [of_byte, Nat.mod_eq_of_lt (UInt8.toNat_lt _)]
  rw [this]
  have hg : (enc y).getD 31 0 = (enc y)[31]'(by rw [enc_len]; omega) := by rw [List.getD_eq_getElem?_getD, List.getElem?_eq_getElem (by rw [enc_len]; omega)]; rfl
  rw [hg]
  exact List.set_getElem_self _
theorem and_top : ∀ t : Nat, t < 256 → (bits .and .u8 (t : Int) 128 != 0) = decide (128 ≤ t) := by decide +kernel
theorem clr_top : ∀ t : Nat, t < 256 → bits .andNot .u8 (t : Int) 128 = ((if 128 ≤ t then t - 128 else t : Nat) : Int) := by decide +kernel
theorem xor_top : ∀ t : Nat, t < 256 → bits .xor .u8 (t : Int) 128 = ((if 128 ≤ t then t - 128 else t + 128 : Nat) : Int) := by decide +kernel
end Go.Proofs.Ytgdimnbdnepbgaa
/- Bytes and Read, over points and numbers. No statement is proved here. -/
namespace Go.Proofs.Ytgdimnbdnepbgaa
open Go.RowKit
set_option linter.unusedVariables false
set_option maxRecDepth 40000
set_option linter.unusedSimpArgs false

theorem pBytes (p : EC.Pt) (w : World) : Calls Try.prog 36 #[vPt p] w (Gives (.tuple #[vN (bts p.1.1 p.1.2), .int .i64 0]) w) := by
  have ht := top_set p.1.2.val (Nat.lt_trans p.1.2.isLt PH)
  refine Bytes_core p.1.1.val p.1.2.val (bts p.1.1 p.1.2) _ w (Lib.hid (pCheck p)) (Lib.hid (Odd_any p.1.1.val (fT _))) ?_ (Lib.hid ht.1)
  rw [Nat.mod_eq_of_lt p.1.1.isLt]
  unfold bts
  by_cases h : p.1.1.val % 2 = 1
  · rw [decide_eq_true h, if_pos h, if_pos rfl]
    exact Lib.hid ht.2
  · rw [decide_eq_false h, if_neg h, if_neg (by decide)]
    exact Lib.hid rfl
theorem across_raw (k : Nat) (hk : PP = 8 * k + 5) (y : Nat) (hy : y < TT) (w : World) : Calls Try.prog 78 #[vN y] w (Gives (.tuple #[vN (rtY k (fO y)).1, .bool (rtY k (fO y)).2]) w) := by
  have hA : ∀ w, Calls Try.prog 19 #[vN (dF * (fO y * fO y)).val, vN 1] w (Gives (vN (dF * (fO y * fO y) + 1).val) w) := fun w => by
    have h := fAdd (dF * (fO y * fO y)) 1 w
    rw [v1] at h
    exact h
  have hS : ∀ w, Calls Try.prog 21 #[vN (fO y * fO y).val, vN 1] w (Gives (vN (fO y * fO y - 1).val) w) := fun w => by
    have h := fSub (fO y * fO y) 1 w
    rw [v1] at h
    exact h
  have hR := Root_any k hk ((fO y * fO y - 1) * fInv (dF * (fO y * fO y) + 1)).val (fT _)
  unfold rtY
  generalize rt PP k ((fO y * fO y - 1) * fInv (dF * (fO y * fO y) + 1)).val = r at *
  exact across_core y _ _ _ _ _ _ _ r.1 r.2 w (Lib.hid fun w => Of_any 1 (by omega) w) (Lib.hid (rawMul y y hy hy)) (Lib.hid fD) (Lib.hid (fMul _ _)) (Lib.hid hA) (Lib.hid (fInvC _)) (Lib.hid hS) (Lib.hid (fMul _ _)) (Lib.hid hR)
/-- The point with these numbers. -/
def mkP (x y : Fin PP) (h : EC.On x y) : EC.Pt := ⟨(x, y), h⟩
/-- What Read tells of y, with the highest bit or without. -/
theorem read_low (k : Nat) (hk : PP = 8 * k + 5) (y : Nat) (hy : y < HH) (odd : Bool) (w : World) (rx ry : Nat) (re : Int)
    (h : if decide (y = y % PP) && ((rtY k (fO y)).2 && !(odd && decide ((rtY k (fO y)).1 = 0))) then (if odd then (PP - (rtY k (fO y)).1 % PP) % PP else (rtY k (fO y)).1) = rx ∧ y = ry ∧ (0 : Int) = re else 0 = rx ∧ 0 = ry ∧ (4 : Int) = re) :
    Calls Try.prog 35 #[vN (if odd then y + HH else y)] w (Gives (.tuple #[vR [rx, ry], .int .i64 re]) w) := by
  have hT : y < TT := by rw [HT2]; omega
  have hlt := rt_lt prP hk ((fO y * fO y - 1) * fInv (dF * (fO y * fO y) + 1)).val
  have hxT : (rtY k (fO y)).1 < TT := Nat.lt_trans hlt PP_lt
  have hA := across_raw k hk y hT
  have hN := Neg_any (rtY k (fO y)).1 hxT
  have hE := eqN (rtY k (fO y)).1 0 hxT (by unfold TT; omega)
  obtain ⟨s1, s2⟩ := top_set y hy
  obtain ⟨c1, c2⟩ := top_clear y hy
  have b1 := UInt8.toNat_lt ((enc (y + HH)).getD 31 0)
  clear hlt
  cases odd
  · refine Read_core y y (rtY k (fO y)).1 _ _ ((enc y).getD 31 0).toNat rx ry re false _ _ _ w (Lib.hid rfl) (Lib.hid ?_) (Lib.hid ?_) (Lib.hid (by omega)) (Lib.hid (top_same y)) (Lib.hid (Canon_any y hT)) (Lib.hid hA) (Lib.hid hN) (Lib.hid hE) (Lib.hid h)
    · rw [and_top _ (by omega), decide_eq_false (by omega)]
    · rw [clr_top _ (by omega), if_neg (by omega)]
  · refine Read_core (y + HH) y (rtY k (fO y)).1 _ _ (((enc (y + HH)).getD 31 0).toNat - 128) rx ry re true _ _ _ w (Lib.hid rfl) (Lib.hid ?_) (Lib.hid ?_) (Lib.hid (by omega)) (Lib.hid c2) (Lib.hid (Canon_any y hT)) (Lib.hid hA) (Lib.hid hN) (Lib.hid hE) (Lib.hid h)
    · rw [and_top _ b1, decide_eq_true c1]
    · rw [clr_top _ b1, if_pos c1]
/-- A point is read from its bytes. -/
theorem pRead (p : EC.Pt) (w : World) : Calls Try.prog 35 #[vN (bts p.1.1 p.1.2)] w (Gives (.tuple #[vPt p, .int .i64 0]) w) := by
  obtain ⟨k, hk⟩ := k_ex
  have hr := rtY_on k hk p.1.1 p.1.2 p.2
  have hlt := p.1.1.isLt
  have hy : p.1.2.val < HH := Nat.lt_trans p.1.2.isLt PH
  have hodd := P_odd
  have h := read_low k hk p.1.2.val hy (decide (p.1.1.val % 2 = 1)) w p.1.1.val p.1.2.val 0
  rw [fO_of, hr, Nat.mod_eq_of_lt p.1.2.isLt, decide_eq_true rfl] at h
  unfold bts vPt
  by_cases ho : p.1.1.val % 2 = 1
  · have he : evn PP p.1.1.val = PP - p.1.1.val := by unfold evn; rw [if_pos ho, Nat.mod_eq_of_lt (by omega)]
    rw [decide_eq_true ho, he] at h
    rw [if_pos ho]
    simp only [if_true] at h
    refine h ?_
    have hz : (PP - (PP - p.1.1.val) % PP) % PP = p.1.1.val := by
      rw [Nat.mod_eq_of_lt (show PP - p.1.1.val < PP by omega), show PP - (PP - p.1.1.val) = p.1.1.val from by omega, Nat.mod_eq_of_lt hlt]
    rw [decide_eq_false (by omega), hz]
    simp
  · have he : evn PP p.1.1.val = p.1.1.val := by unfold evn; rw [if_neg ho]
    rw [decide_eq_false ho, he] at h
    rw [if_neg ho]
    refine h ?_
    simp
/-- With X 0 and the highest bit nothing is read. -/
theorem pRead_zero (p : EC.Pt) (h0 : p.1.1 = 0) (w : World) : Calls Try.prog 35 #[vN (p.1.2.val + HH)] w (Gives (.tuple #[vR [0, 0], .int .i64 4]) w) := by
  obtain ⟨k, hk⟩ := k_ex
  have hr := rtY_on k hk p.1.1 p.1.2 p.2
  have hy : p.1.2.val < HH := Nat.lt_trans p.1.2.isLt PH
  have h := read_low k hk p.1.2.val hy true w 0 0 4
  rw [fO_of, hr, h0] at h
  have he : evn PP (0 : Fin PP).val = 0 := rfl
  rw [he] at h
  refine h ?_
  simp
/-- Whatever is read is a point with just these bytes. -/
theorem pRead_any (n : Nat) (hn : n < TT) : (∃ p : EC.Pt, n = bts p.1.1 p.1.2) ∨ ∀ w, Calls Try.prog 35 #[vN n] w (Gives (.tuple #[vR [0, 0], .int .i64 4]) w) := by
  obtain ⟨k, hk⟩ := k_ex
  obtain ⟨y, odd, hy, rfl⟩ : ∃ (y : Nat) (odd : Bool), y < HH ∧ n = if odd then y + HH else y := by
    rw [HT2] at hn
    by_cases h : n < HH
    · exact ⟨n, false, h, rfl⟩
    · exact ⟨n - HH, true, by omega, by simp; omega⟩
  by_cases hc : (decide (y = y % PP) && ((rtY k (fO y)).2 && !(odd && decide ((rtY k (fO y)).1 = 0)))) = true
  · left
    simp only [Bool.and_eq_true, decide_eq_true_eq, Bool.not_eq_true', Bool.and_eq_false_iff, decide_eq_false_iff_not] at hc
    obtain ⟨h1, h2, h3⟩ := hc
    obtain ⟨x, hx, e, hev⟩ := rtY_ok k hk _ h2
    have hyv : (fO y).val = y := by rw [fO_val, ← h1]
    have hodd := P_odd
    cases odd
    · refine ⟨mkP x (fO y) hx, ?_⟩
      show (if false = true then y + HH else y) = if x.val % 2 = 1 then (fO y).val + HH else (fO y).val
      rw [if_neg (show ¬ x.val % 2 = 1 by omega), hyv]
      rfl
    · have hx0 : x ≠ 0 := fun h0 => by
        rcases h3 with h3 | h3
        · cases h3
        · rw [e, h0] at h3
          exact h3 rfl
      refine ⟨mkP (-x) (fO y) (EC.On_neg hx), ?_⟩
      have hv := neg_val x hx0
      have hlt := x.isLt
      show (if true = true then y + HH else y) = if (-x).val % 2 = 1 then (fO y).val + HH else (fO y).val
      rw [hv, if_pos (show (PP - x.val) % 2 = 1 by omega), hyv]
      rfl
  · right
    intro w
    refine read_low k hk y hy odd w 0 0 4 ?_
    rw [if_neg hc]
    exact ⟨rfl, rfl, rfl⟩
/-- The highest bit makes the negative. -/
theorem bts_neg (x y : Fin PP) (h : x ≠ 0) : bts (-x) y = (if 128 ≤ ((enc (bts x y)).getD 31 0).toNat then bts x y - HH else bts x y + HH) := by
  have hv := neg_val x h
  have hlt := x.isLt
  have hodd := P_odd
  have hy : y.val < HH := Nat.lt_trans y.isLt PH
  unfold bts
  rw [hv]
  by_cases ho : x.val % 2 = 1
  · rw [if_neg (by omega), if_pos ho, if_pos (top_clear _ hy).1]
    omega
  · rw [if_pos (by omega), if_neg ho, if_neg (by have := (top_set _ hy).1; omega)]
/-- The highest bit turned. -/
theorem turn (n : Nat) (hn : n < TT) : ∃ m u, m = (if 128 ≤ ((enc n).getD 31 0).toNat then n - HH else n + HH) ∧ bits .xor .u8 (((enc n).getD 31 0).toNat : Int) 128 = ((u : Nat) : Int) ∧ u < 256 ∧ (enc n).set 31 (UInt8.ofNat u) = enc m := by
  rw [HT2] at hn
  by_cases h : n < HH
  · obtain ⟨s1, s2⟩ := top_set n h
    exact ⟨n + HH, _, by rw [if_neg (by omega)], by rw [xor_top _ (by omega), if_neg (by omega)], by omega, s2⟩
  · obtain ⟨y, rfl⟩ : ∃ y, n = y + HH := ⟨n - HH, by omega⟩
    obtain ⟨c1, c2⟩ := top_clear y (by omega)
    have b1 := UInt8.toNat_lt ((enc (y + HH)).getD 31 0)
    exact ⟨y, _, by rw [if_pos c1]; omega, by rw [xor_top _ b1, if_pos c1], by omega, c2⟩
theorem rCanonF (a : Fin PP) (w : World) : Calls Try.prog 16 #[vN a.val] w (Gives (.bool true) w) := by
  have h := rCanon_any a.val (fT a) w
  rw [decide_eq_true (Nat.mod_eq_of_lt a.isLt).symm] at h
  exact h
end Go.Proofs.Ytgdimnbdnepbgaa
/- The reference's D and L. No statement is proved here. -/
namespace Go.Proofs.Ytgdimnbdnepbgaa
open Go.RowKit
set_option linter.unusedVariables false
set_option maxRecDepth 40000
set_option linter.unusedSimpArgs false

set_option maxHeartbeats 1000000 in
theorem rD_core (x m y i d : Nat) (w : World) (C1 : Hid (∀ w, Calls Try.prog 18 #[.int .u64 121665] w (Gives (vN x) w))) (C2 : Hid (∀ w, Calls Try.prog 24 #[vN x] w (Gives (vN m) w))) (C3 : Hid (∀ w, Calls Try.prog 18 #[.int .u64 121666] w (Gives (vN y) w))) (C4 : Hid (∀ w, Calls Try.prog 30 #[vN y] w (Gives (vN i) w))) (C5 : Hid (∀ w, Calls Try.prog 26 #[vN m, vN i] w (Gives (vN d) w))) :
    Calls Try.prog 46 #[] w (Gives (vN d) w) := by
  have HF_0 : Hid (Below w.heap.size w w) := Lib.hid (Below.refl _ _)
  go_enter Try.func46, Try.ntmps46
  go_wp2_with (first | ((with_reducible show wpList _ _ _ (⟨some 0, .alloc 23, _, _, _, _⟩ :: _) _ _); go_must (refine wpList_alloc_row rfl 23 rfl (.agg (zbs 32)) zero23 ?_; intro u3 ha3 hza3 hga3; have Ngr_3 : Hid (RAt u3 w.heap.size [0]) := Lib.hid (zrow (k := 1) ha3); have HF_3 : Hid (Below w.heap.size w u3) := Lib.hid (HF_0.out.grown hga3 HF_0.out.size (by simp)); have HGE3 : Hid (w.heap.size ≤ w.heap.size) := Lib.hid HF_0.out.size; clear ha3 hza3 hga3 HF_0)) | fail)
  refine (C1.out _).mono ?_
  rintro e4 x4 ⟨rfl, hb4⟩
  have Ngr_4 := Lib.hid (Ngr_3.out.keep hb4)
  have HF_4 : Hid (Below w.heap.size w x4) := Lib.hid (HF_3.out.trans (hb4.mono HF_3.out.size))
  clear hb4 Ngr_3 HF_3
  go_wp2_with fail
  refine (C2.out _).mono ?_
  rintro e5 x5 ⟨rfl, hb5⟩
  have Ngr_5 := Lib.hid (Ngr_4.out.keep hb5)
  have HF_5 : Hid (Below w.heap.size w x5) := Lib.hid (HF_4.out.trans (hb5.mono HF_4.out.size))
  clear hb5 Ngr_4 HF_4
  go_wp2_with fail
  refine (C3.out _).mono ?_
  rintro e6 x6 ⟨rfl, hb6⟩
  have Ngr_6 := Lib.hid (Ngr_5.out.keep hb6)
  have HF_6 : Hid (Below w.heap.size w x6) := Lib.hid (HF_5.out.trans (hb6.mono HF_5.out.size))
  clear hb6 Ngr_5 HF_5
  go_wp2_with fail
  refine (C4.out _).mono ?_
  rintro e7 x7 ⟨rfl, hb7⟩
  have Ngr_7 := Lib.hid (Ngr_6.out.keep hb7)
  have HF_7 : Hid (Below w.heap.size w x7) := Lib.hid (HF_6.out.trans (hb7.mono HF_6.out.size))
  clear hb7 Ngr_6 HF_6
  go_wp2_with fail
  refine (C5.out _).mono ?_
  rintro e8 x8 ⟨rfl, hb8⟩
  have Ngr_8 := Lib.hid (Ngr_7.out.keep hb8)
  have HF_8 : Hid (Below w.heap.size w x8) := Lib.hid (HF_7.out.trans (hb8.mono HF_7.out.size))
  clear hb8 Ngr_7 HF_7
  go_wp2_with (first | ((with_reducible show wpList _ _ _ (⟨none, .store 23 (.tmp 0) (.tmp 5), _, _, _, _⟩ :: _) _ _); go_must (refine wpList_storeF rfl (.tmp 0) (.tmp 5) rfl (w.heap.size) 0 0 rfl [0] d rfl rfl Ngr_8.out (show 0 < 1 by omega) ?_; intro y9 hr9 hg9 hz9; have Ngr_9 : Hid (RAt y9 w.heap.size [d]) := Lib.hid hr9; have HF_9 : Hid (Below w.heap.size w y9) := Lib.hid (HF_8.out.grown hg9 HF_8.out.size (fun r hr => by injection hr with hr; have := HGE3.out; omega)); clear hr9 hg9 hz9 Ngr_8 HF_8)) | fail)
  obtain ⟨tr, htr⟩ := Ngr_9.out
  refine bodyPost_ret (results_cell_row rfl _ _ w.heap.size tr (bcs (encs [d])).toArray _ _ rfl htr under23 rfl (by rw [List.size_toArray, bcs_len, encs_len]; exact size23)) rfl ?_
  exact ⟨by rw [← vR_one]; rfl, HF_9.out⟩

def cF : Fin PP := ⟨121666, by unfold PP; omega⟩
def eF : Fin PP := ⟨121665, by unfold PP; omega⟩
theorem d_is : dF * cF = -eF := by decide +kernel
theorem c_ne : cF ≠ 0 := fun h => by
  have := congrArg Fin.val h
  have h0 : (0 : Fin PP).val = 0 := rfl
  rw [h0] at this
  exact absurd this (by decide)
theorem d_val : (-eF) * fInv cF = dF := by
  have h := fInv_mul c_ne
  rw [← d_is]
  generalize fInv cF = v at *
  grind
theorem rD_any (w : World) : Calls Try.prog 46 #[] w (Gives (vN dN) w) := by
  obtain ⟨q, hq⟩ := q_ex
  have h1 : ∀ w, Calls Try.prog 24 #[vN 121665] w (Gives (vN (-eF).val) w) := fun w => gives_N (by show (PP - 121665 % PP) % PP = (PP - 121665) % PP; rw [Nat.mod_eq_of_lt (by unfold PP; omega : 121665 < PP)]) (rNeg_any 121665 (by unfold TT; omega) w)
  have h2 : ∀ w, Calls Try.prog 30 #[vN 121666] w (Gives (vN (fInv cF).val) w) := fun w => by
    rw [fInv_val cF q hq]
    exact rInv_any q hq 121666 (by unfold TT; omega) w
  have h3 : ∀ w, Calls Try.prog 26 #[vN (-eF).val, vN (fInv cF).val] w (Gives (vN dN) w) := fun w => by
    have h := rMul_any (-eF).val (fInv cF).val (fT _) (fT _) w
    rw [← Fin.val_mul, d_val] at h
    exact h
  exact rD_core _ _ _ _ _ w (Lib.hid fun w => rOf_core 121665 (by omega) w) (Lib.hid h1) (Lib.hid fun w => rOf_core 121666 (by omega) w) (Lib.hid h2) (Lib.hid h3)
end Go.Proofs.Ytgdimnbdnepbgaa
/- The reference's points: near, away, plus, Add, Neg, Mul2, Mul, Small, Check, Zero, as points of the curve. No statement is proved here. -/
namespace Go.Proofs.Ytgdimnbdnepbgaa
open Go.RowKit
set_option linter.unusedVariables false
set_option maxRecDepth 40000
set_option linter.unusedSimpArgs false

def Fw (l : List Nat) : Fin PP := fO (val10 l)
theorem Fw_eq {l : List Nat} {n : Nat} (h : val10 l % PP = n % PP) : Fw l = fO n := Fin.ext (by unfold Fw; rw [fO_val, fO_val, h])
theorem fO_mul (a b : Nat) : fO (a * b) = fO a * fO b := Fin.ext (by rw [Fin.val_mul, fO_val, fO_val, fO_val, ← Nat.mul_mod])
theorem fO_add (a b : Nat) : fO (a + b) = fO a + fO b := Fin.ext (by rw [Fin.val_add, fO_val, fO_val, fO_val, ← Nat.add_mod])
theorem tG (x y : List Nat) (hx : R10 x) (hy : R10 y) : ∃ z, R10 z ∧ Fw z = Fw x * Fw y ∧ ∀ w, Calls Try.prog 75 #[.agg (ics x).toArray, .agg (ics y).toArray] w (Gives (.agg (ics z).toArray) w) := by
  obtain ⟨z, h1, h2, h3⟩ := Times_gives x y hx hy
  exact ⟨z, h1, (Fw_eq h2).trans (fO_mul _ _), h3⟩
theorem pG (x y : List Nat) (hx : R10 x) (hy : R10 y) : ∃ z, R10 z ∧ Fw z = Fw x + Fw y ∧ ∀ w, Calls Try.prog 71 #[.agg (ics x).toArray, .agg (ics y).toArray] w (Gives (.agg (ics z).toArray) w) := by
  obtain ⟨z, h1, h2, h3⟩ := Plus_gives x y hx hy
  exact ⟨z, h1, (Fw_eq h2).trans (fO_add _ _), h3⟩
theorem mG (x y : List Nat) (hx : R10 x) (hy : R10 y) : ∃ z, R10 z ∧ Fw z = Fw x - Fw y ∧ ∀ w, Calls Try.prog 73 #[.agg (ics x).toArray, .agg (ics y).toArray] w (Gives (.agg (ics z).toArray) w) := by
  obtain ⟨z, h1, h2, h3⟩ := Minus_gives x y hx hy
  refine ⟨z, h1, ?_, h3⟩
  have e : fO (val10 z + val10 y) = fO (val10 x) := Fin.ext (by rw [fO_val, fO_val, h2])
  rw [fO_add] at e
  unfold Fw
  grind
/-- A far point stands for a point. -/
structure FarIs (f : Fr) (p : EC.Pt) : Prop where
  rx : R10 f.x
  ry : R10 f.y
  rz : R10 f.z
  nz : Fw f.z ≠ 0
  hx : Fw f.x = p.1.1 * Fw f.z
  hy : Fw f.y = p.1.2 * Fw f.z
theorem FarIs.ok {f : Fr} {p : EC.Pt} (h : FarIs f p) : f.Ok := ⟨h.rx.1, h.ry.1, h.rz.1⟩
theorem far_alg {x1 y1 x2 y2 z1 z2 D X Y d : Fin PP} (hD : D = d * (x1 * y1 * (x2 * y2))) (eX : X * (1 + D) = x1 * y2 + y1 * x2) (eY : Y * (1 - D) = y1 * y2 + x1 * x2) {px py qx qy a b c e h m f g s u v k x r1 r2 r3 r4 r5 : Fin PP}
    (hpx : px = x1 * z1) (hpy : py = y1 * z1) (hqx : qx = x2 * z2) (hqy : qy = y2 * z2)
    (ha : a = z1 * z2) (hb : b = a * a) (hc : c = px * qx) (he : e = py * qy) (hh : h = c * e) (hm : m = d * h) (hf : f = b - m) (hg : g = b + m) (hs : s = c + e) (hu : u = px + py) (hv : v = qx + qy) (hk : k = u * v) (hx : x = k - s) (h1 : r1 = f * x) (h2 : r2 = a * r1) (h3 : r3 = g * s) (h4 : r4 = a * r3) (h5 : r5 = f * g) :
    r2 = X * r5 ∧ r4 = Y * r5 ∧ r5 = (a * a) * (a * a) * ((1 - D) * (1 + D)) := by
  have hm' : m = D * (a * a) := by subst_vars; grind
  have hf' : f = (a * a) * (1 - D) := by rw [hf, hb, hm']; grind
  have hg' : g = (a * a) * (1 + D) := by rw [hg, hb, hm']; grind
  have hs' : s = Y * (1 - D) * a := by rw [eY, hs, hc, he, hpx, hpy, hqx, hqy, ha]; grind
  have hx' : x = X * (1 + D) * a := by rw [eX, hx, hk, hu, hv, hs, hc, he, hpx, hpy, hqx, hqy, ha]; grind
  clear hm hf hg hs hx hk hu hv hc he hpx hpy hqx hqy ha hh hb eX eY hD
  subst h1 h2 h3 h4 h5
  rw [hf', hg', hs', hx']
  refine ⟨?_, ?_, ?_⟩ <;> grind
theorem rPlus (p q : Fr) (P Q : EC.Pt) (hp : FarIs p P) (hq : FarIs q Q) (d : List Nat) (hd : R10 d) (hdF : Fw d = dF) : ∃ s : Fr, FarIs s (EC.add P Q) ∧ ∀ w, Calls Try.prog 86 #[.agg (ics d).toArray, vF p, vF q] w (Gives (vF s) w) := by
  obtain ⟨a, ra, ha, Ca⟩ := tG p.z q.z hp.rz hq.rz
  obtain ⟨b, rb, hb, Cb⟩ := tG a a ra ra
  obtain ⟨c, rc, hc, Cc⟩ := tG p.x q.x hp.rx hq.rx
  obtain ⟨e, re, he, Ce⟩ := tG p.y q.y hp.ry hq.ry
  obtain ⟨h, rh, hh, Ch⟩ := tG c e rc re
  obtain ⟨m, rm, hm, Cm⟩ := tG d h hd rh
  obtain ⟨f, rf, hf, Cf⟩ := mG b m rb rm
  obtain ⟨g, rg, hg, Cg⟩ := pG b m rb rm
  obtain ⟨s, rs, hs, Cs⟩ := pG c e rc re
  obtain ⟨u, ru, hu, Cu⟩ := pG p.x p.y hp.rx hp.ry
  obtain ⟨v, rv, hv, Cv⟩ := pG q.x q.y hq.rx hq.ry
  obtain ⟨k, rk, hk, Ck⟩ := tG u v ru rv
  obtain ⟨x, rx, hx, Cx⟩ := mG k s rk rs
  obtain ⟨r1, rr1, h1, C1⟩ := tG f x rf rx
  obtain ⟨r2, rr2, h2, C2⟩ := tG a r1 ra rr1
  obtain ⟨r3, rr3, h3, C3⟩ := tG g s rg rs
  obtain ⟨r4, rr4, h4, C4⟩ := tG a r3 ra rr3
  obtain ⟨r5, rr5, h5, C5⟩ := tG f g rf rg
  have d1 := EC.den1 P.2 Q.2
  have d2 := EC.den2 P.2 Q.2
  have eX := EC.sx_eq P.2 Q.2
  have eY := EC.sy_eq P.2 Q.2
  rw [hdF] at hm
  obtain ⟨e1, e2, e3⟩ := far_alg rfl eX eY hp.hx hp.hy hq.hx hq.hy ha hb hc he hh hm hf hg hs hu hv hk hx h1 h2 h3 h4 h5
  have ha0 : Fw a ≠ 0 := by rw [ha]; exact EC.mul_ne hp.nz hq.nz
  refine ⟨⟨r2, r4, r5⟩, ⟨rr2, rr4, rr5, ?_, e1, e2⟩, fun w => ?_⟩
  · show Fw r5 ≠ 0
    rw [e3]
    exact EC.mul_ne (EC.mul_ne (EC.mul_ne ha0 ha0) (EC.mul_ne ha0 ha0)) (EC.mul_ne d2 d1)
  · exact plus_far d p.x p.y p.z q.x q.y q.z a b c e h m f g s u v k x r1 r2 r3 r4 r5 w (Lib.hid hd.1) (Lib.hid hp.rx.1) (Lib.hid hp.ry.1) (Lib.hid hp.rz.1) (Lib.hid hq.rx.1) (Lib.hid hq.ry.1) (Lib.hid hq.rz.1) (Lib.hid ra.1) (Lib.hid rb.1) (Lib.hid rc.1) (Lib.hid re.1) (Lib.hid rh.1) (Lib.hid rm.1) (Lib.hid rf.1) (Lib.hid rg.1) (Lib.hid rs.1) (Lib.hid ru.1) (Lib.hid rv.1) (Lib.hid rk.1) (Lib.hid rx.1) (Lib.hid rr1.1) (Lib.hid rr2.1) (Lib.hid rr3.1) (Lib.hid rr4.1) (Lib.hid rr5.1)
      (Lib.hid Ca) (Lib.hid Cb) (Lib.hid Cc) (Lib.hid Ce) (Lib.hid Ch) (Lib.hid Cm) (Lib.hid Cf) (Lib.hid Cg) (Lib.hid Cs) (Lib.hid Cu) (Lib.hid Cv) (Lib.hid Ck) (Lib.hid Cx) (Lib.hid C1) (Lib.hid C2) (Lib.hid C3) (Lib.hid C4) (Lib.hid C5)

/-! The reference's numbers as residues. -/
theorem hMul (a b : Fin PP) (w : World) : Calls Try.prog 26 #[vN a.val, vN b.val] w (Gives (vN (a * b).val) w) := gives_N (Fin.val_mul a b).symm (rMul_any a.val b.val (fT a) (fT b) w)
theorem hInv (a : Fin PP) (w : World) : Calls Try.prog 30 #[vN a.val] w (Gives (vN (fInv a).val) w) := by
  obtain ⟨q, hq⟩ := q_ex
  rw [fInv_val a q hq]
  exact rInv_any q hq a.val (fT a) w
theorem hSub (a b : Fin PP) (w : World) : Calls Try.prog 22 #[vN a.val, vN b.val] w (Gives (vN (a - b).val) w) := gives_N (by
  have hb := b.isLt
  rw [Fin.val_sub, Nat.mod_eq_of_lt hb, Nat.add_comm]) (rSub_any a.val b.val (fT a) (fT b) w)
theorem hNeg (a : Fin PP) (w : World) : Calls Try.prog 24 #[vN a.val] w (Gives (vN (-a).val) w) := gives_N (by
  rw [Nat.mod_eq_of_lt a.isLt, Fin.val_neg]
  split
  · rename_i h
    rw [h]
    show (PP - 0) % PP = 0
    rw [Nat.sub_zero, Nat.mod_self]
  · rename_i h
    exact Nat.mod_eq_of_lt (by
      have : a.val ≠ 0 := fun e => h (Fin.ext e)
      have := a.isLt
      omega)) (rNeg_any a.val (fT a) w)
theorem hMulR (a b : Nat) (ha : a < TT) (hb : b < TT) (w : World) : Calls Try.prog 26 #[vN a, vN b] w (Gives (vN (fO a * fO b).val) w) := gives_N (by rw [← fO_mul, fO_val]) (rMul_any a b ha hb w)
theorem hOf (n : Nat) (h : n < PP) (h2 : n < 18446744073709551616) (w : World) : Calls Try.prog 18 #[.int .u64 n] w (Gives (vN (fO n).val) w) := gives_N (fO_lt h).symm (rOf_core n h2 w)
theorem small_PP {n : Nat} (h : n < 18446744073709551616) : n < PP := by unfold PP; omega
theorem hOne (w : World) : Calls Try.prog 18 #[.int .u64 1] w (Gives (vN 1) w) := rOf_core 1 (by omega) w
/-! Points. -/
theorem rZero_any (w : World) : Calls Try.prog 84 #[] w (Gives (vR [0, 1]) w) := rZero_core w (Lib.hid hOne)
theorem rAway (p : EC.Pt) : ∃ f : Fr, FarIs f p ∧ ∀ w, Calls Try.prog 87 #[vPt p] w (Gives (vF f) w) := by
  obtain ⟨x, rx, hx, Cx⟩ := rOpen p.1.1.val (fT _)
  obtain ⟨y, ry, hy, Cy⟩ := rOpen p.1.2.val (fT _)
  obtain ⟨z, rz, hz, Cz⟩ := rOpen 1 (by unfold TT; omega)
  have ez : Fw z = 1 := by rw [Fw_eq hz]; exact Fin.ext (by rw [fO_val, v1]; exact Nat.mod_eq_of_lt (by unfold PP; omega))
  have ex : Fw x = p.1.1 := by rw [Fw_eq hx, fO_of]
  have ey : Fw y = p.1.2 := by rw [Fw_eq hy, fO_of]
  refine ⟨⟨x, y, z⟩, ⟨rx, ry, rz, by rw [ez]; exact EC.h1, by rw [ex, ez]; grind, by rw [ey, ez]; grind⟩, fun w => ?_⟩
  exact away_core p.1.1.val p.1.2.val x y z w (Lib.hid rx.1) (Lib.hid ry.1) (Lib.hid rz.1) (Lib.hid Cx) (Lib.hid Cy) (Lib.hid hOne) (Lib.hid Cz)
theorem hClose (l : List Nat) (h : R10 l) (w : World) : Calls Try.prog 67 #[.agg (ics l).toArray] w (Gives (vN (Fw l).val) w) := gives_N (by unfold Fw; rw [fO_val]) (Close_gives l h w)
theorem rNear (f : Fr) (p : EC.Pt) (h : FarIs f p) (w : World) : Calls Try.prog 85 #[vF f] w (Gives (vPt p) w) := by
  have hi := fInv_mul h.nz
  have e1 : Fw f.x * fInv (Fw f.z) = p.1.1 := by rw [h.hx]; generalize fInv (Fw f.z) = v at *; grind
  have e2 : Fw f.y * fInv (Fw f.z) = p.1.2 := by rw [h.hy]; generalize fInv (Fw f.z) = v at *; grind
  have h1 := hMul (Fw f.x) (fInv (Fw f.z))
  have h2 := hMul (Fw f.y) (fInv (Fw f.z))
  rw [e1] at h1
  rw [e2] at h2
  exact near_core f.x f.y f.z _ _ _ _ _ _ w (Lib.hid h.rx.1) (Lib.hid h.ry.1) (Lib.hid h.rz.1) (Lib.hid (hClose f.z h.rz)) (Lib.hid (hInv _)) (Lib.hid (hClose f.x h.rx)) (Lib.hid h1) (Lib.hid (hClose f.y h.ry)) (Lib.hid h2)
theorem d_ex : ∃ d, R10 d ∧ Fw d = dF ∧ ∀ w, Calls Try.prog 68 #[vN dN] w (Gives (.agg (ics d).toArray) w) := by
  obtain ⟨d, h1, h2, h3⟩ := rOpen dN (fT dF)
  exact ⟨d, h1, by rw [Fw_eq h2]; exact fO_of dF, h3⟩
theorem rCheck_any (X Y : Nat) (hX : X < TT) (hY : Y < TT) (w : World) : Calls Try.prog 49 #[vR [X, Y]] w (Gives (.int .i64 (chk X Y)) w) := by
  have c1 := rCanon_any X hX
  have c2 := rCanon_any Y hY
  unfold chk
  by_cases h1 : X = X % PP
  · rw [decide_eq_true h1] at c1 ⊢
    by_cases h2 : Y = Y % PP
    · rw [decide_eq_true h2] at c2 ⊢
      have hx2 := hMulR X X hX hX
      have hy2 := hMulR Y Y hY hY
      generalize ha : fO X * fO X = a at *
      generalize hb : fO Y * fO Y = b at *
      have hs := hSub b a
      have ht : ∀ w, Calls Try.prog 22 #[vN (b - a).val, vN 1] w (Gives (vN (b - a - 1).val) w) := fun w => by
        have h := hSub (b - a) 1 w
        rw [v1] at h
        exact h
      have hc : ∀ w, Calls Try.prog 18 #[.int .u64 121666] w (Gives (vN cF.val) w) := fun w => rOf_core 121666 (by omega) w
      have he : ∀ w, Calls Try.prog 18 #[.int .u64 121665] w (Gives (vN eF.val) w) := fun w => rOf_core 121665 (by omega) w
      have hE := eqN (cF * (b - a - 1)).val (-(eF * (a * b))).val (fT _) (fT _)
      refine rCheck_y X Y a.val b.val cF.val (b - a).val (b - a - 1).val (cF * (b - a - 1)).val eF.val (a * b).val (eF * (a * b)).val (-(eF * (a * b))).val _ _ w (Lib.hid c1) (Lib.hid c2) (Lib.hid hx2) (Lib.hid hy2) (Lib.hid hc) (Lib.hid hs) (Lib.hid hOne) (Lib.hid ht) (Lib.hid (hMul _ _)) (Lib.hid he) (Lib.hid (hMul _ _)) (Lib.hid (hMul _ _)) (Lib.hid (hNeg _)) (Lib.hid hE) (Lib.hid ?_)
      have hiff : ((cF * (b - a - 1)).val = (-(eF * (a * b))).val) ↔ b - a = 1 + dF * (a * b) := by
        have hd := d_is
        constructor
        · intro h
          have h := Fin.ext h
          have h3 : cF * (b - a - 1) = cF * (dF * (a * b)) := by rw [h]; grind
          have h4 := EC.cancel c_ne h3
          grind
        · intro h
          rw [show b - a - 1 = dF * (a * b) by grind]
          congr 1
          grind
      unfold onB
      rw [ha, hb]
      by_cases h3 : b - a = 1 + dF * (a * b)
      · rw [decide_eq_true (hiff.2 h3), decide_eq_true h3]; rfl
      · rw [decide_eq_false (fun e => h3 (hiff.1 e)), decide_eq_false h3]; rfl
    · rw [decide_eq_false h2] at c2 ⊢
      exact rCheck_n2 X Y w (Lib.hid c1) (Lib.hid c2)
  · rw [decide_eq_false h1] at c1 ⊢
    exact rCheck_n1 X Y w (Lib.hid c1)
theorem rCheckP (p : EC.Pt) (w : World) : Calls Try.prog 49 #[vPt p] w (Gives (.int .i64 0) w) := by
  have h := rCheck_any p.1.1.val p.1.2.val (fT _) (fT _) w
  rw [chk_pt] at h
  exact h
theorem rAddP (p q : EC.Pt) (w : World) : Calls Try.prog 50 #[vPt p, vPt q] w (Gives (vPt (EC.add p q)) w) := by
  obtain ⟨d, rd, hd, Cd⟩ := d_ex
  obtain ⟨fp, hp, Cp⟩ := rAway p
  obtain ⟨fq, hq, Cq⟩ := rAway q
  obtain ⟨s, hs, Cs⟩ := rPlus fp fq p q hp hq d rd hd
  exact rAdd_P _ _ _ _ dN _ _ d fp.x fp.y fp.z fq.x fq.y fq.z s.x s.y s.z w (Lib.hid (rCheckP p)) (Lib.hid (rCheckP q)) (Lib.hid rD_any) (Lib.hid Cd) (Lib.hid Cp) (Lib.hid Cq) (Lib.hid Cs) (Lib.hid (rNear s _ hs))
theorem rNegP (p : EC.Pt) (w : World) : Calls Try.prog 52 #[vPt p] w (Gives (vPt (EC.neg p)) w) := rNeg_P _ _ _ w (Lib.hid (rCheckP p)) (Lib.hid (hNeg p.1.1))
theorem rMul2P (a b : Nat) (ha : a < TT) (hb : b < TT) (P Q : EC.Pt) (w : World) : Calls Try.prog 54 #[vN a, vPt P, vN b, vPt Q] w (Gives (vPt (EC.add (EC.sm P a) (EC.sm Q b))) w) := by
  obtain ⟨d, rd, hd, Cd⟩ := d_ex
  obtain ⟨fo, ho, Co⟩ := rAway EC.zero
  obtain ⟨fp, hp, Cp⟩ := rAway P
  obtain ⟨fq, hq, Cq⟩ := rAway Q
  rw [vZ] at Co
  have e0 : EC.two P Q a b 0 = EC.add (EC.sm P a) (EC.sm Q b) := by unfold Ed.two; rw [Nat.pow_zero, Nat.div_one, Nat.div_one]
  have e256 : EC.two P Q a b 256 = EC.zero := by
    unfold Ed.two
    rw [Nat.div_eq_of_lt (show a < 2 ^ 256 from ha), Nat.div_eq_of_lt (show b < 2 ^ 256 from hb)]
    exact EC.add_zero _
  rw [← e0]
  refine rMul2_P a b _ _ _ _ dN _ _ d fo fp fq (fun n f => FarIs f (EC.two P Q a b n)) (fun n f => FarIs f (EC.add (EC.two P Q a b (n + 1)) (EC.two P Q a b (n + 1)))) (fun n f => FarIs f (EC.add (EC.add (EC.two P Q a b (n + 1)) (EC.two P Q a b (n + 1))) (EC.sm P (a / 2 ^ n % 2)))) w
    (Lib.hid rd.1) (Lib.hid (rCheckP P)) (Lib.hid (rCheckP Q)) (Lib.hid rD_any) (Lib.hid Cd) (Lib.hid rZero_any) (Lib.hid Co) (Lib.hid Cp) (Lib.hid Cq) (Lib.hid (by rw [e256]; exact ho)) (Lib.hid ho.ok) (Lib.hid hp.ok) (Lib.hid hq.ok)
    (Lib.hid fun f hf w => rNear f _ hf w) (Lib.hid fun i f _ hf => ?_) (Lib.hid fun i u _ hu _ e => ?_) (Lib.hid fun i u _ hu e => ?_) (Lib.hid fun i u _ hu _ e => ?_) (Lib.hid fun i u _ hu e => ?_) (Lib.hid fun i hi w => rBit_any a i ha hi w) (Lib.hid fun i hi w => rBit_any b i hb hi w)
  · obtain ⟨s, hs, Cs⟩ := rPlus f f _ _ hf hf d rd hd
    exact ⟨s, hs.ok, Cs, hs⟩
  · obtain ⟨s, hs, Cs⟩ := rPlus u fp _ _ hu hp d rd hd
    refine ⟨s, hs.ok, Cs, ?_⟩
    rw [e, EC.sm_one]
    exact hs
  · rw [show a / 2 ^ i % 2 = 0 by omega]
    show FarIs u (EC.add _ EC.zero)
    rw [EC.add_zero]
    exact hu
  · obtain ⟨s, hs, Cs⟩ := rPlus u fq _ _ hu hq d rd hd
    refine ⟨s, hs.ok, Cs, ?_⟩
    rw [EC.two_step, e, EC.sm_one, ← EC.add_assoc]
    exact hs
  · rw [EC.two_step, show b / 2 ^ i % 2 = 0 by omega, ← EC.add_assoc]
    show FarIs u (EC.add _ EC.zero)
    rw [EC.add_zero]
    exact hu
theorem rMulP (a : Nat) (ha : a < TT) (P : EC.Pt) (w : World) : Calls Try.prog 55 #[vN a, vPt P] w (Gives (vPt (EC.sm P a)) w) := by
  have h : ∀ w, Calls Try.prog 54 #[vN a, vPt P, vN 0, vR [0, 1]] w (Gives (vPt (EC.sm P a)) w) := fun w => by
    have h := rMul2P a 0 ha (by unfold TT; omega) P EC.zero w
    rw [EC.sm_zero, EC.add_zero, vZ] at h
    exact h
  exact rMul_P a _ _ 0 1 _ _ w (Lib.hid rZero_any) (Lib.hid h)
theorem rSmallP (P : EC.Pt) (w : World) : Calls Try.prog 56 #[vPt P] w (Gives (.bool (decide (EC.sm P 8 = EC.zero))) w) :=
  rSmall_P _ _ _ _ _ w (Lib.hid (rCheckP P)) (Lib.hid fun w => rOf_core 8 (by omega) w) (Lib.hid (rMulP 8 (by unfold TT; omega) P)) (Lib.hid rZero_any) (Lib.hid fun w => by rw [← vZ]; exact pEq _ _ w)
end Go.Proofs.Ytgdimnbdnepbgaa
/- The reference's Bytes and Read. No statement is proved here. -/
namespace Go.Proofs.Ytgdimnbdnepbgaa
open Go.RowKit
set_option linter.unusedVariables false
set_option maxRecDepth 40000
set_option linter.unusedSimpArgs false

theorem loadM {o : Oper} {a : Act} {w : World} (x : Operand) (ho : o.op = .load 22 x) (g n : Nat) (hx : a.eval x = .pointer (some ⟨g, 0, none⟩)) (hr : CAt w g (bcs (enc n))) : (execOp a.eval o).run Try.prog w = .ok (.value (vN n)) w :=
  exec_load22 x ho g 0 0 rfl [n] n hx (by obtain ⟨t, ht⟩ := hr; exact ⟨t, by rw [encs_one]; exact ht⟩) rfl
theorem cell31 {w : World} {g n : Nat} (h : CAt w g (bcs (enc n))) : w.cell? ⟨g, 31, none⟩ = some (.int .u8 (((enc n).getD 31 0).toNat : Nat)) := (show BAt w g (enc n) from ⟨enc_len n, h⟩).cell 31 (by omega)

set_option maxHeartbeats 600000 in
theorem rBytes_bad (x y : Nat) (w : World)
    (C0 : Hid (∀ w, Calls Try.prog 49 #[vR [x, y]] w (Gives (.int .i64 2) w))) :
    Calls Try.prog 47 #[vR [x, y]] w (Gives (.tuple #[vN 0, .int .i64 2]) w) := by
  have HM0 : Hid (Rws w []) := rw0 w
  have HF0 : Hid (Below w.heap.size w w) := Lib.hid (Below.refl _ _)
  go_enter Try.func47, Try.ntmps47
  go_wp2_with (first | ((with_reducible show wpList _ _ _ (⟨some 1, .box 35 (.tmp 0), _, _, _, _⟩ :: _) _ _); go_must (refine wpList_box_row rfl 35 (.tmp 0) rfl (bcs (encs [x, y])).toArray rfl ?_; intro u1 a1 b1 c1; have HG2 : Hid (w.heap.size ≤ w.heap.size) := Lib.hid HF0.out.size; have HM2 := rwN HM0 (below_of_grownBy c1) (cbS (cs := bcs (encs [x, y])) a1); have HF2 := bT HF0 (below_of_grownBy c1); clear a1 b1 c1 HM0 HF0)) | ((with_reducible show wpList _ _ _ (⟨some 2, .alloc 22, _, _, _, _⟩ :: _) _ _); go_must (refine wpList_alloc_row rfl 22 rfl (.agg (zbs 32)) zero22 ?_; intro u3 a3 b3 c3; have HG4 : Hid (w.heap.size ≤ u1.heap.size) := Lib.hid HF2.out.size; have HM4 := rwN HM2 (below_of_grownBy c3) (cbS (cs := bcs (List.replicate 32 0)) a3); have HF4 := bT HF2 (below_of_grownBy c3); clear a3 b3 c3 HM2 HF2)) | ((with_reducible show wpList _ _ _ (⟨some 5, .load 35 (.tmp 1), _, _, _, _⟩ :: _) _ _); go_must (refine wpList_exec rfl (vR [x, y]) (loadP (.tmp 1) rfl (w.heap.size) x y rfl (rwG HM4 1 rfl)) ?_)) | fail)
  generalize u1.heap.size = gr at *
  refine (C0.out _).mono ?_
  rintro e5 x5 ⟨rfl, hb5⟩
  have HM5 := rwC HM4 hb5
  have HF5 := bT HF4 hb5
  clear hb5 HM4 HF4
  go_wp2_with (first | ((with_reducible show wpList _ _ _ (⟨some 8, .build 22 _, _, _, _, _⟩ :: _) _ _); go_must (refine wpList_exec rfl (vN 0) (exec_buildc rfl (by kernel_rfl)) ?_)) | ((with_reducible show wpList _ _ _ (⟨none, .store 22 (.tmp 2) (.tmp 8), _, _, _, _⟩ :: _) _ _); go_must (refine wpList_put rfl 22 (.tmp 2) (.tmp 8) rfl (gr) rfl (bcs (enc 0)) (bcs (List.replicate 32 0)) rfl (rwG HM5 0 rfl) (by rw [ce]; exact size22) (by rw [ce]; rfl) (bcs_one' _) HF5.out HG4.out ?_; intro y6 hc6 hb6; have HC6 := Lib.hid hc6; have HF6 := Lib.hid hb6; clear hc6 hb6 HM5 HF5)) | fail)
  obtain ⟨tr, htr⟩ := HC6.out
  exact bodyPost_ret (results_cell2 rfl _ _ (gr) tr (bcs (enc 0)).toArray (0, 0) _ rfl htr under22 rfl (by rw [List.size_toArray, ce]; exact size22)) rfl ⟨rfl, HF6.out⟩

set_option maxHeartbeats 600000 in
theorem rBytes_false (x y t r : Nat) (w : World)
    (C0 : Hid (∀ w, Calls Try.prog 49 #[vR [x, y]] w (Gives (.int .i64 0) w)))
    (C1 : Hid (∀ w, Calls Try.prog 32 #[vN x] w (Gives (.bool false) w))) :
    Calls Try.prog 47 #[vR [x, y]] w (Gives (.tuple #[vN y, .int .i64 0]) w) := by
  have HM0 : Hid (Rws w []) := rw0 w
  have HF0 : Hid (Below w.heap.size w w) := Lib.hid (Below.refl _ _)
  go_enter Try.func47, Try.ntmps47
  go_wp2_with (first | ((with_reducible show wpList _ _ _ (⟨some 1, .box 35 (.tmp 0), _, _, _, _⟩ :: _) _ _); go_must (refine wpList_box_row rfl 35 (.tmp 0) rfl (bcs (encs [x, y])).toArray rfl ?_; intro u1 a1 b1 c1; have HG2 : Hid (w.heap.size ≤ w.heap.size) := Lib.hid HF0.out.size; have HM2 := rwN HM0 (below_of_grownBy c1) (cbS (cs := bcs (encs [x, y])) a1); have HF2 := bT HF0 (below_of_grownBy c1); clear a1 b1 c1 HM0 HF0)) | ((with_reducible show wpList _ _ _ (⟨some 2, .alloc 22, _, _, _, _⟩ :: _) _ _); go_must (refine wpList_alloc_row rfl 22 rfl (.agg (zbs 32)) zero22 ?_; intro u3 a3 b3 c3; have HG4 : Hid (w.heap.size ≤ u1.heap.size) := Lib.hid HF2.out.size; have HM4 := rwN HM2 (below_of_grownBy c3) (cbS (cs := bcs (List.replicate 32 0)) a3); have HF4 := bT HF2 (below_of_grownBy c3); clear a3 b3 c3 HM2 HF2)) | ((with_reducible show wpList _ _ _ (⟨some 5, .load 35 (.tmp 1), _, _, _, _⟩ :: _) _ _); go_must (refine wpList_exec rfl (vR [x, y]) (loadP (.tmp 1) rfl (w.heap.size) x y rfl (rwG HM4 1 rfl)) ?_)) | fail)
  generalize u1.heap.size = gr at *
  refine (C0.out _).mono ?_
  rintro e5 x5 ⟨rfl, hb5⟩
  have HM5 := rwC HM4 hb5
  have HF5 := bT HF4 hb5
  clear hb5 HM4 HF4
  go_wp2_with (first | ((with_reducible show wpList _ _ _ (⟨some 10, .load 23 (.tmp 9), _, _, _, _⟩ :: _) _ _); go_must (refine wpList_exec rfl (vN y) (loadY (.tmp 9) rfl (w.heap.size) x y rfl (rwG HM5 1 rfl)) ?_)) | ((with_reducible show wpList _ _ _ (⟨some 4, .alloc 22, _, _, _, _⟩ :: _) _ _); go_must (refine wpList_mk rfl 22 rfl (zbs 32) zero22 (.tmp 4) (.tmp 10) rfl (bcs (enc y)) rfl rfl rfl (by rw [ce]; exact size22) (Eq.symm (by rw [ce]; rfl)) (bcs_one' _) ?_; intro y6 a6 b6; have HNE := Lib.hid (neO HM5 (Nat.le_refl _)); have HG7 : Hid (w.heap.size ≤ x5.heap.size) := Lib.hid HF5.out.size; have HM7 := rwN HM5 b6 a6; have HF7 := bT HF5 b6; clear a6 b6 HM5 HF5)) | ((with_reducible show wpList _ _ _ (⟨some 12, .load 23 (.tmp 11), _, _, _, _⟩ :: _) _ _); go_must (refine wpList_exec rfl (vN x) (loadX (.tmp 11) rfl (w.heap.size) x y rfl (rwG HM7 2 rfl)) ?_)) | fail)
  generalize x5.heap.size = gb at *
  refine (C1.out _).mono ?_
  rintro e8 x8 ⟨rfl, hb8⟩
  have HM8 := rwC HM7 hb8
  have HF8 := bT HF7 hb8
  clear hb8 HM7 HF7
  go_wp2_with (first | ((with_reducible show wpList _ _ _ (⟨some 18, .load 22 (.tmp 4), _, _, _, _⟩ :: _) _ _); go_must (refine wpList_exec rfl (vN y) (loadM (.tmp 4) rfl (gb) y rfl (rwG HM8 0 rfl)) ?_)) | ((with_reducible show wpList _ _ _ (⟨none, .store 22 (.tmp 2) (.tmp 18), _, _, _, _⟩ :: _) _ _); go_must (refine wpList_put rfl 22 (.tmp 2) (.tmp 18) rfl (gr) rfl (bcs (enc y)) (bcs (List.replicate 32 0)) rfl (rwG HM8 1 rfl) (by rw [ce]; exact size22) (by rw [ce]; rfl) (bcs_one' _) HF8.out HG4.out ?_; intro y9 hc9 hb9; have HC9 := Lib.hid hc9; have HF9 := Lib.hid hb9; clear hc9 hb9 HM8 HF8)) | fail)
  obtain ⟨tr, htr⟩ := HC9.out
  exact bodyPost_ret (results_cell2 rfl _ _ (gr) tr (bcs (enc y)).toArray (0, 0) _ rfl htr under22 rfl (by rw [List.size_toArray, ce]; exact size22)) rfl ⟨rfl, HF9.out⟩

set_option maxHeartbeats 600000 in
theorem rBytes_true (x y t r : Nat) (w : World)
    (C0 : Hid (∀ w, Calls Try.prog 49 #[vR [x, y]] w (Gives (.int .i64 0) w)))
    (C1 : Hid (∀ w, Calls Try.prog 32 #[vN x] w (Gives (.bool true) w)))
    (HT : Hid (((enc y).getD 31 0).toNat = t)) (HTB : Hid (t < 128))
    (HS : Hid ((bcs (enc y)).toArray.setIfInBounds 31 (.int .u8 ((t : Int) + 128)) = (bcs (enc r)).toArray)) :
    Calls Try.prog 47 #[vR [x, y]] w (Gives (.tuple #[vN r, .int .i64 0]) w) := by
  have HM0 : Hid (Rws w []) := rw0 w
  have HF0 : Hid (Below w.heap.size w w) := Lib.hid (Below.refl _ _)
  go_enter Try.func47, Try.ntmps47
  go_wp2_with (first | ((with_reducible show wpList _ _ _ (⟨some 1, .box 35 (.tmp 0), _, _, _, _⟩ :: _) _ _); go_must (refine wpList_box_row rfl 35 (.tmp 0) rfl (bcs (encs [x, y])).toArray rfl ?_; intro u1 a1 b1 c1; have HG2 : Hid (w.heap.size ≤ w.heap.size) := Lib.hid HF0.out.size; have HM2 := rwN HM0 (below_of_grownBy c1) (cbS (cs := bcs (encs [x, y])) a1); have HF2 := bT HF0 (below_of_grownBy c1); clear a1 b1 c1 HM0 HF0)) | ((with_reducible show wpList _ _ _ (⟨some 2, .alloc 22, _, _, _, _⟩ :: _) _ _); go_must (refine wpList_alloc_row rfl 22 rfl (.agg (zbs 32)) zero22 ?_; intro u3 a3 b3 c3; have HG4 : Hid (w.heap.size ≤ u1.heap.size) := Lib.hid HF2.out.size; have HM4 := rwN HM2 (below_of_grownBy c3) (cbS (cs := bcs (List.replicate 32 0)) a3); have HF4 := bT HF2 (below_of_grownBy c3); clear a3 b3 c3 HM2 HF2)) | ((with_reducible show wpList _ _ _ (⟨some 5, .load 35 (.tmp 1), _, _, _, _⟩ :: _) _ _); go_must (refine wpList_exec rfl (vR [x, y]) (loadP (.tmp 1) rfl (w.heap.size) x y rfl (rwG HM4 1 rfl)) ?_)) | fail)
  generalize u1.heap.size = gr at *
  refine (C0.out _).mono ?_
  rintro e5 x5 ⟨rfl, hb5⟩
  have HM5 := rwC HM4 hb5
  have HF5 := bT HF4 hb5
  clear hb5 HM4 HF4
  go_wp2_with (first | ((with_reducible show wpList _ _ _ (⟨some 10, .load 23 (.tmp 9), _, _, _, _⟩ :: _) _ _); go_must (refine wpList_exec rfl (vN y) (loadY (.tmp 9) rfl (w.heap.size) x y rfl (rwG HM5 1 rfl)) ?_)) | ((with_reducible show wpList _ _ _ (⟨some 4, .alloc 22, _, _, _, _⟩ :: _) _ _); go_must (refine wpList_mk rfl 22 rfl (zbs 32) zero22 (.tmp 4) (.tmp 10) rfl (bcs (enc y)) rfl rfl rfl (by rw [ce]; exact size22) (Eq.symm (by rw [ce]; rfl)) (bcs_one' _) ?_; intro y6 a6 b6; have HNE := Lib.hid (neO HM5 (Nat.le_refl _)); have HG7 : Hid (w.heap.size ≤ x5.heap.size) := Lib.hid HF5.out.size; have HM7 := rwN HM5 b6 a6; have HF7 := bT HF5 b6; clear a6 b6 HM5 HF5)) | ((with_reducible show wpList _ _ _ (⟨some 12, .load 23 (.tmp 11), _, _, _, _⟩ :: _) _ _); go_must (refine wpList_exec rfl (vN x) (loadX (.tmp 11) rfl (w.heap.size) x y rfl (rwG HM7 2 rfl)) ?_)) | fail)
  generalize x5.heap.size = gb at *
  refine (C1.out _).mono ?_
  rintro e8 x8 ⟨rfl, hb8⟩
  have HM8 := rwC HM7 hb8
  have HF8 := bT HF7 hb8
  clear hb8 HM7 HF7
  have cb := cell31 (rwG HM8 0 rfl)
  rw [HT.out] at cb
  have htb : (t : Int) < 128 := by have := HTB.out; omega
  go_wp2_with (first | ((with_reducible show wpList _ _ _ (⟨none, .store 5 (.tmp 17) (.tmp 16), _, _, _, _⟩ :: _) _ _); go_must (obtain ⟨tt, htt⟩ := rwG HM8 0 rfl; refine wpList_store_one rfl 5 (.tmp 17) (.tmp 16) rfl (gb) 31 rfl .u8 _ rfl tt _ htt size5 (by simp only [List.size_toArray, bcs_len, enc_len]; omega) ?_; intro y9 hh hg hz; rw [HS.out] at hh; have HF9 := Lib.hid (HF8.out.grown hg HF8.out.size (fun r hr => by injection hr with hr; have := HG7.out; omega)); have HM9 := rwD (rwGr (rwT HM8) HNE hg) (cbS (cs := bcs (enc r)) hh); clear hh hg hz htt HM8 HF8)) | ((with_reducible show wpList _ _ _ (⟨some 18, .load 22 (.tmp 4), _, _, _, _⟩ :: _) _ _); go_must (refine wpList_exec rfl (vN r) (loadM (.tmp 4) rfl (gb) r rfl (rwG HM9 0 rfl)) ?_)) | ((with_reducible show wpList _ _ _ (⟨none, .store 22 (.tmp 2) (.tmp 18), _, _, _, _⟩ :: _) _ _); go_must (refine wpList_put rfl 22 (.tmp 2) (.tmp 18) rfl (gr) rfl (bcs (enc r)) (bcs (List.replicate 32 0)) rfl (rwG HM9 1 rfl) (by rw [ce]; exact size22) (by rw [ce]; rfl) (bcs_one' _) HF9.out HG4.out ?_; intro y10 hc10 hb10; have HC10 := Lib.hid hc10; have HF10 := Lib.hid hb10; clear hc10 hb10 HM9 HF9)) | fail)
  obtain ⟨tr, htr⟩ := HC10.out
  exact bodyPost_ret (results_cell2 rfl _ _ (gr) tr (bcs (enc r)).toArray (0, 0) _ rfl htr under22 rfl (by rw [List.size_toArray, ce]; exact size22)) rfl ⟨rfl, HF10.out⟩

set_option maxHeartbeats 600000 in
theorem rRead_ce (n t y x m : Nat) (w : World)
    (C0 : Hid (∀ w, Calls Try.prog 16 #[vN y] w (Gives (.bool false) w)))
    (HT : Hid (((enc n).getD 31 0).toNat = t)) (HTB : Hid (t < 256))
    (HS : Hid ((bcs (enc n)).toArray.setIfInBounds 31 (.int .u8 ((t : Int) % 128)) = (bcs (enc y)).toArray))
    (HOD : Hid (t < 128)) :
    Calls Try.prog 48 #[vN n] w (Gives (.tuple #[vR [0, 0], .int .i64 4]) w) := by
  have HM0 : Hid (Rws w []) := rw0 w
  have HF0 : Hid (Below w.heap.size w w) := Lib.hid (Below.refl _ _)
  have htb : (t : Int) < 256 := by have := HTB.out; omega
  have hto : (t : Int) < 128 := by have := HOD.out; omega
  go_enter Try.func48, Try.ntmps48
  go_wp2_with (first | ((with_reducible show wpList _ _ _ (⟨some 1, .box 22 (.tmp 0), _, _, _, _⟩ :: _) _ _); go_must (refine wpList_box_row rfl 22 (.tmp 0) rfl (bcs (enc n)).toArray rfl ?_; intro u1 a1 b1 c1; have HG2 : Hid (w.heap.size ≤ w.heap.size) := Lib.hid HF0.out.size; have HM2 := rwN HM0 (below_of_grownBy c1) (cbS (cs := bcs (enc n)) a1); have HF2 := bT HF0 (below_of_grownBy c1); clear a1 b1 c1 HM0 HF0)) | ((with_reducible show wpList _ _ _ (⟨some 2, .alloc 35, _, _, _, _⟩ :: _) _ _); go_must (refine wpList_alloc_row rfl 35 rfl (.agg (zbs 64)) zero35 ?_; intro u3 a3 b3 c3; have HG4 : Hid (w.heap.size ≤ u1.heap.size) := Lib.hid HF2.out.size; have HM4 := rwN HM2 (below_of_grownBy c3) (cbS (cs := bcs (List.replicate 64 0)) a3); have HF4 := bT HF2 (below_of_grownBy c3); clear a3 b3 c3 HM2 HF2)) | ((with_reducible show wpList _ _ _ (⟨some 8, .load 22 (.tmp 1), _, _, _, _⟩ :: _) _ _); go_must (refine wpList_exec rfl (vN n) (loadM (.tmp 1) rfl (w.heap.size) n rfl (rwG HM4 1 rfl)) ?_)) | ((with_reducible show wpList _ _ _ (⟨some 4, .alloc 23, _, _, _, _⟩ :: _) _ _); go_must (refine wpList_mk rfl 23 rfl (zbs 32) zero23 (.tmp 4) (.tmp 8) rfl (bcs (enc n)) rfl rfl rfl (by rw [ce]; exact size23) (Eq.symm (by rw [ce]; rfl)) (bcs_one' _) ?_; intro y5 a5 b5; have HNE := Lib.hid (neO HM4 (Nat.le_refl _)); have HG6 : Hid (w.heap.size ≤ u3.heap.size) := Lib.hid HF4.out.size; have HM6 := rwN HM4 b5 a5; have HF6 := bT HF4 b5; clear a5 b5 HM4 HF4; have cb := cell31 (rwG HM6 0 rfl); rw [HT.out] at cb)) | ((with_reducible show wpList _ _ _ (⟨none, .store 5 (.tmp 15) (.tmp 14), _, _, _, _⟩ :: _) _ _); go_must (obtain ⟨tt, htt⟩ := rwG HM6 0 rfl; refine wpList_store_one rfl 5 (.tmp 15) (.tmp 14) rfl (u3.heap.size) 31 rfl .u8 _ rfl tt _ htt size5 (by simp only [List.size_toArray, bcs_len, enc_len]; omega) ?_; intro y7 hh hg hz; rw [HS.out] at hh; have HF7 := Lib.hid (HF6.out.grown hg HF6.out.size (fun r hr => by injection hr with hr; have := HG6.out; omega)); have HM7 := rwD (rwGr (rwT HM6) HNE hg) (cbS (cs := bcs (enc y)) hh); clear cb; clear hh hg hz htt HM6 HF6)) | ((with_reducible show wpList _ _ _ (⟨some 16, .load 23 (.tmp 4), _, _, _, _⟩ :: _) _ _); go_must (refine wpList_exec rfl (vN y) (loadN (.tmp 4) rfl (u3.heap.size) y rfl (rwG HM7 0 rfl)) ?_)) | fail)
  generalize u1.heap.size = gr at *
  generalize u3.heap.size = gy at *
  refine (C0.out _).mono ?_
  rintro e8 x8 ⟨rfl, hb8⟩
  have HM8 := rwC HM7 hb8
  have HF8 := bT HF7 hb8
  clear hb8 HM7 HF7
  go_wp2_with (first | ((with_reducible show wpList _ _ _ (⟨some 19, .build 35 _, _, _, _, _⟩ :: _) _ _); go_must (refine wpList_exec rfl (vR [0, 0]) (exec_buildc rfl (by kernel_rfl)) ?_)) | ((with_reducible show wpList _ _ _ (⟨none, .store 35 (.tmp 2) (.tmp 19), _, _, _, _⟩ :: _) _ _); go_must (refine wpList_put rfl 35 (.tmp 2) (.tmp 19) rfl (gr) rfl (bcs (encs [0, 0])) (bcs (List.replicate 64 0)) rfl (rwG HM8 1 rfl) (by rw [cr]; exact size35) (by rw [cr]; rfl) (bcs_one' _) HF8.out HG4.out ?_; intro y9 hc9 hb9; have HC9 := Lib.hid hc9; have HF9 := Lib.hid hb9; clear hc9 hb9 HM8 HF8)) | fail)
  obtain ⟨tr, htr⟩ := HC9.out
  exact bodyPost_ret (results_cell2 rfl _ _ (gr) tr (bcs (encs [0, 0])).toArray (0, 0) _ rfl htr Try.underlying35 rfl (by rw [List.size_toArray, cr]; exact size35)) rfl ⟨rfl, HF9.out⟩

set_option maxHeartbeats 600000 in
theorem rRead_re (n t y x m : Nat) (w : World)
    (C0 : Hid (∀ w, Calls Try.prog 16 #[vN y] w (Gives (.bool true) w)))
    (C1 : Hid (∀ w, Calls Try.prog 83 #[vN y] w (Gives (.tuple #[vN x, .bool false]) w)))
    (HT : Hid (((enc n).getD 31 0).toNat = t)) (HTB : Hid (t < 256))
    (HS : Hid ((bcs (enc n)).toArray.setIfInBounds 31 (.int .u8 ((t : Int) % 128)) = (bcs (enc y)).toArray))
    (HOD : Hid (t < 128)) :
    Calls Try.prog 48 #[vN n] w (Gives (.tuple #[vR [0, 0], .int .i64 4]) w) := by
  have HM0 : Hid (Rws w []) := rw0 w
  have HF0 : Hid (Below w.heap.size w w) := Lib.hid (Below.refl _ _)
  have htb : (t : Int) < 256 := by have := HTB.out; omega
  have hto : (t : Int) < 128 := by have := HOD.out; omega
  go_enter Try.func48, Try.ntmps48
  go_wp2_with (first | ((with_reducible show wpList _ _ _ (⟨some 1, .box 22 (.tmp 0), _, _, _, _⟩ :: _) _ _); go_must (refine wpList_box_row rfl 22 (.tmp 0) rfl (bcs (enc n)).toArray rfl ?_; intro u1 a1 b1 c1; have HG2 : Hid (w.heap.size ≤ w.heap.size) := Lib.hid HF0.out.size; have HM2 := rwN HM0 (below_of_grownBy c1) (cbS (cs := bcs (enc n)) a1); have HF2 := bT HF0 (below_of_grownBy c1); clear a1 b1 c1 HM0 HF0)) | ((with_reducible show wpList _ _ _ (⟨some 2, .alloc 35, _, _, _, _⟩ :: _) _ _); go_must (refine wpList_alloc_row rfl 35 rfl (.agg (zbs 64)) zero35 ?_; intro u3 a3 b3 c3; have HG4 : Hid (w.heap.size ≤ u1.heap.size) := Lib.hid HF2.out.size; have HM4 := rwN HM2 (below_of_grownBy c3) (cbS (cs := bcs (List.replicate 64 0)) a3); have HF4 := bT HF2 (below_of_grownBy c3); clear a3 b3 c3 HM2 HF2)) | ((with_reducible show wpList _ _ _ (⟨some 8, .load 22 (.tmp 1), _, _, _, _⟩ :: _) _ _); go_must (refine wpList_exec rfl (vN n) (loadM (.tmp 1) rfl (w.heap.size) n rfl (rwG HM4 1 rfl)) ?_)) | ((with_reducible show wpList _ _ _ (⟨some 4, .alloc 23, _, _, _, _⟩ :: _) _ _); go_must (refine wpList_mk rfl 23 rfl (zbs 32) zero23 (.tmp 4) (.tmp 8) rfl (bcs (enc n)) rfl rfl rfl (by rw [ce]; exact size23) (Eq.symm (by rw [ce]; rfl)) (bcs_one' _) ?_; intro y5 a5 b5; have HNE := Lib.hid (neO HM4 (Nat.le_refl _)); have HG6 : Hid (w.heap.size ≤ u3.heap.size) := Lib.hid HF4.out.size; have HM6 := rwN HM4 b5 a5; have HF6 := bT HF4 b5; clear a5 b5 HM4 HF4; have cb := cell31 (rwG HM6 0 rfl); rw [HT.out] at cb)) | ((with_reducible show wpList _ _ _ (⟨none, .store 5 (.tmp 15) (.tmp 14), _, _, _, _⟩ :: _) _ _); go_must (obtain ⟨tt, htt⟩ := rwG HM6 0 rfl; refine wpList_store_one rfl 5 (.tmp 15) (.tmp 14) rfl (u3.heap.size) 31 rfl .u8 _ rfl tt _ htt size5 (by simp only [List.size_toArray, bcs_len, enc_len]; omega) ?_; intro y7 hh hg hz; rw [HS.out] at hh; have HF7 := Lib.hid (HF6.out.grown hg HF6.out.size (fun r hr => by injection hr with hr; have := HG6.out; omega)); have HM7 := rwD (rwGr (rwT HM6) HNE hg) (cbS (cs := bcs (enc y)) hh); clear cb; clear hh hg hz htt HM6 HF6)) | ((with_reducible show wpList _ _ _ (⟨some 16, .load 23 (.tmp 4), _, _, _, _⟩ :: _) _ _); go_must (refine wpList_exec rfl (vN y) (loadN (.tmp 4) rfl (u3.heap.size) y rfl (rwG HM7 0 rfl)) ?_)) | fail)
  generalize u1.heap.size = gr at *
  generalize u3.heap.size = gy at *
  refine (C0.out _).mono ?_
  rintro e8 x8 ⟨rfl, hb8⟩
  have HM8 := rwC HM7 hb8
  have HF8 := bT HF7 hb8
  clear hb8 HM7 HF7
  go_wp2_with (first | ((with_reducible show wpList _ _ _ (⟨some 21, .load 23 (.tmp 4), _, _, _, _⟩ :: _) _ _); go_must (refine wpList_exec rfl (vN y) (loadN (.tmp 4) rfl (gy) y rfl (rwG HM8 0 rfl)) ?_)) | fail)
  refine (C1.out _).mono ?_
  rintro e9 x9 ⟨rfl, hb9⟩
  have HM9 := rwC HM8 hb9
  have HF9 := bT HF8 hb9
  clear hb9 HM8 HF8
  go_wp2_with (first | ((with_reducible show wpList _ _ _ (⟨some 6, .alloc 23, _, _, _, _⟩ :: _) _ _); go_must (refine wpList_mk rfl 23 rfl (zbs 32) zero23 (.tmp 6) (.tmp 23) rfl (bcs (enc x)) rfl rfl rfl (by rw [ce]; exact size23) (Eq.symm (by rw [ce]; rfl)) (bcs_one' _) ?_; intro y10 a10 b10; have HNX := Lib.hid (neO HM9 (Nat.le_refl _)); have HG11 : Hid (w.heap.size ≤ x9.heap.size) := Lib.hid HF9.out.size; have HM11 := rwN HM9 b10 a10; have HF11 := bT HF9 b10; clear a10 b10 HM9 HF9)) | ((with_reducible show wpList _ _ _ (⟨some 35, .build 35 _, _, _, _, _⟩ :: _) _ _); go_must (refine wpList_exec rfl (vR [0, 0]) (exec_buildc rfl (by kernel_rfl)) ?_)) | ((with_reducible show wpList _ _ _ (⟨none, .store 35 (.tmp 2) (.tmp 35), _, _, _, _⟩ :: _) _ _); go_must (refine wpList_put rfl 35 (.tmp 2) (.tmp 35) rfl (gr) rfl (bcs (encs [0, 0])) (bcs (List.replicate 64 0)) rfl (rwG HM11 2 rfl) (by rw [cr]; exact size35) (by rw [cr]; rfl) (bcs_one' _) HF11.out HG4.out ?_; intro y12 hc12 hb12; have HC12 := Lib.hid hc12; have HF12 := Lib.hid hb12; clear hc12 hb12 HM11 HF11)) | fail)
  generalize x9.heap.size = gx at *
  obtain ⟨tr, htr⟩ := HC12.out
  exact bodyPost_ret (results_cell2 rfl _ _ (gr) tr (bcs (encs [0, 0])).toArray (0, 0) _ rfl htr Try.underlying35 rfl (by rw [List.size_toArray, cr]; exact size35)) rfl ⟨rfl, HF12.out⟩

set_option maxHeartbeats 600000 in
theorem rRead_e (n t y x m : Nat) (w : World)
    (C0 : Hid (∀ w, Calls Try.prog 16 #[vN y] w (Gives (.bool true) w)))
    (C1 : Hid (∀ w, Calls Try.prog 83 #[vN y] w (Gives (.tuple #[vN x, .bool true]) w)))
    (HT : Hid (((enc n).getD 31 0).toNat = t)) (HTB : Hid (t < 256))
    (HS : Hid ((bcs (enc n)).toArray.setIfInBounds 31 (.int .u8 ((t : Int) % 128)) = (bcs (enc y)).toArray))
    (HOD : Hid (t < 128)) :
    Calls Try.prog 48 #[vN n] w (Gives (.tuple #[vR [x, y], .int .i64 0]) w) := by
  have HM0 : Hid (Rws w []) := rw0 w
  have HF0 : Hid (Below w.heap.size w w) := Lib.hid (Below.refl _ _)
  have htb : (t : Int) < 256 := by have := HTB.out; omega
  have hto : (t : Int) < 128 := by have := HOD.out; omega
  go_enter Try.func48, Try.ntmps48
  go_wp2_with (first | ((with_reducible show wpList _ _ _ (⟨some 1, .box 22 (.tmp 0), _, _, _, _⟩ :: _) _ _); go_must (refine wpList_box_row rfl 22 (.tmp 0) rfl (bcs (enc n)).toArray rfl ?_; intro u1 a1 b1 c1; have HG2 : Hid (w.heap.size ≤ w.heap.size) := Lib.hid HF0.out.size; have HM2 := rwN HM0 (below_of_grownBy c1) (cbS (cs := bcs (enc n)) a1); have HF2 := bT HF0 (below_of_grownBy c1); clear a1 b1 c1 HM0 HF0)) | ((with_reducible show wpList _ _ _ (⟨some 2, .alloc 35, _, _, _, _⟩ :: _) _ _); go_must (refine wpList_alloc_row rfl 35 rfl (.agg (zbs 64)) zero35 ?_; intro u3 a3 b3 c3; have HG4 : Hid (w.heap.size ≤ u1.heap.size) := Lib.hid HF2.out.size; have HM4 := rwN HM2 (below_of_grownBy c3) (cbS (cs := bcs (List.replicate 64 0)) a3); have HF4 := bT HF2 (below_of_grownBy c3); clear a3 b3 c3 HM2 HF2)) | ((with_reducible show wpList _ _ _ (⟨some 8, .load 22 (.tmp 1), _, _, _, _⟩ :: _) _ _); go_must (refine wpList_exec rfl (vN n) (loadM (.tmp 1) rfl (w.heap.size) n rfl (rwG HM4 1 rfl)) ?_)) | ((with_reducible show wpList _ _ _ (⟨some 4, .alloc 23, _, _, _, _⟩ :: _) _ _); go_must (refine wpList_mk rfl 23 rfl (zbs 32) zero23 (.tmp 4) (.tmp 8) rfl (bcs (enc n)) rfl rfl rfl (by rw [ce]; exact size23) (Eq.symm (by rw [ce]; rfl)) (bcs_one' _) ?_; intro y5 a5 b5; have HNE := Lib.hid (neO HM4 (Nat.le_refl _)); have HG6 : Hid (w.heap.size ≤ u3.heap.size) := Lib.hid HF4.out.size; have HM6 := rwN HM4 b5 a5; have HF6 := bT HF4 b5; clear a5 b5 HM4 HF4; have cb := cell31 (rwG HM6 0 rfl); rw [HT.out] at cb)) | ((with_reducible show wpList _ _ _ (⟨none, .store 5 (.tmp 15) (.tmp 14), _, _, _, _⟩ :: _) _ _); go_must (obtain ⟨tt, htt⟩ := rwG HM6 0 rfl; refine wpList_store_one rfl 5 (.tmp 15) (.tmp 14) rfl (u3.heap.size) 31 rfl .u8 _ rfl tt _ htt size5 (by simp only [List.size_toArray, bcs_len, enc_len]; omega) ?_; intro y7 hh hg hz; rw [HS.out] at hh; have HF7 := Lib.hid (HF6.out.grown hg HF6.out.size (fun r hr => by injection hr with hr; have := HG6.out; omega)); have HM7 := rwD (rwGr (rwT HM6) HNE hg) (cbS (cs := bcs (enc y)) hh); clear cb; clear hh hg hz htt HM6 HF6)) | ((with_reducible show wpList _ _ _ (⟨some 16, .load 23 (.tmp 4), _, _, _, _⟩ :: _) _ _); go_must (refine wpList_exec rfl (vN y) (loadN (.tmp 4) rfl (u3.heap.size) y rfl (rwG HM7 0 rfl)) ?_)) | fail)
  generalize u1.heap.size = gr at *
  generalize u3.heap.size = gy at *
  refine (C0.out _).mono ?_
  rintro e8 x8 ⟨rfl, hb8⟩
  have HM8 := rwC HM7 hb8
  have HF8 := bT HF7 hb8
  clear hb8 HM7 HF7
  go_wp2_with (first | ((with_reducible show wpList _ _ _ (⟨some 21, .load 23 (.tmp 4), _, _, _, _⟩ :: _) _ _); go_must (refine wpList_exec rfl (vN y) (loadN (.tmp 4) rfl (gy) y rfl (rwG HM8 0 rfl)) ?_)) | fail)
  refine (C1.out _).mono ?_
  rintro e9 x9 ⟨rfl, hb9⟩
  have HM9 := rwC HM8 hb9
  have HF9 := bT HF8 hb9
  clear hb9 HM8 HF8
  go_wp2_with (first | ((with_reducible show wpList _ _ _ (⟨some 6, .alloc 23, _, _, _, _⟩ :: _) _ _); go_must (refine wpList_mk rfl 23 rfl (zbs 32) zero23 (.tmp 6) (.tmp 23) rfl (bcs (enc x)) rfl rfl rfl (by rw [ce]; exact size23) (Eq.symm (by rw [ce]; rfl)) (bcs_one' _) ?_; intro y10 a10 b10; have HNX := Lib.hid (neO HM9 (Nat.le_refl _)); have HG11 : Hid (w.heap.size ≤ x9.heap.size) := Lib.hid HF9.out.size; have HM11 := rwN HM9 b10 a10; have HF11 := bT HF9 b10; clear a10 b10 HM9 HF9)) | ((with_reducible show wpList _ _ _ (⟨some 39, .load 23 (.tmp 6), _, _, _, _⟩ :: _) _ _); go_must (refine wpList_exec rfl (vN x) (loadN (.tmp 6) rfl (x9.heap.size) x rfl (rwG HM11 0 rfl)) ?_)) | ((with_reducible show wpList _ _ _ (⟨some 40, .load 23 (.tmp 4), _, _, _, _⟩ :: _) _ _); go_must (refine wpList_exec rfl (vN y) (loadN (.tmp 4) rfl (gy) y rfl (rwG HM11 1 rfl)) ?_)) | ((with_reducible show wpList _ _ _ (⟨some 41, .build 35 _, _, _, _, _⟩ :: _) _ _); go_must (refine wpList_exec rfl (vR [x, y]) (exec_build35 (.tmp 39) (.tmp 40) x y rfl rfl rfl) ?_)) | ((with_reducible show wpList _ _ _ (⟨none, .store 35 (.tmp 2) (.tmp 41), _, _, _, _⟩ :: _) _ _); go_must (refine wpList_put rfl 35 (.tmp 2) (.tmp 41) rfl (gr) rfl (bcs (encs [x, y])) (bcs (List.replicate 64 0)) rfl (rwG HM11 2 rfl) (by rw [cr]; exact size35) (by rw [cr]; rfl) (bcs_one' _) HF11.out HG4.out ?_; intro y12 hc12 hb12; have HC12 := Lib.hid hc12; have HF12 := Lib.hid hb12; clear hc12 hb12 HM11 HF11)) | fail)
  generalize x9.heap.size = gx at *
  obtain ⟨tr, htr⟩ := HC12.out
  exact bodyPost_ret (results_cell2 rfl _ _ (gr) tr (bcs (encs [x, y])).toArray (0, 0) _ rfl htr Try.underlying35 rfl (by rw [List.size_toArray, cr]; exact size35)) rfl ⟨rfl, HF12.out⟩

set_option maxHeartbeats 600000 in
theorem rRead_co (n t y x m : Nat) (w : World)
    (C0 : Hid (∀ w, Calls Try.prog 16 #[vN y] w (Gives (.bool false) w)))
    (HT : Hid (((enc n).getD 31 0).toNat = t)) (HTB : Hid (t < 256))
    (HS : Hid ((bcs (enc n)).toArray.setIfInBounds 31 (.int .u8 ((t : Int) % 128)) = (bcs (enc y)).toArray))
    (HOD : Hid (128 ≤ t)) :
    Calls Try.prog 48 #[vN n] w (Gives (.tuple #[vR [0, 0], .int .i64 4]) w) := by
  have HM0 : Hid (Rws w []) := rw0 w
  have HF0 : Hid (Below w.heap.size w w) := Lib.hid (Below.refl _ _)
  have htb : (t : Int) < 256 := by have := HTB.out; omega
  have hto : 128 ≤ (t : Int) := by have := HOD.out; omega
  go_enter Try.func48, Try.ntmps48
  go_wp2_with (first | ((with_reducible show wpList _ _ _ (⟨some 1, .box 22 (.tmp 0), _, _, _, _⟩ :: _) _ _); go_must (refine wpList_box_row rfl 22 (.tmp 0) rfl (bcs (enc n)).toArray rfl ?_; intro u1 a1 b1 c1; have HG2 : Hid (w.heap.size ≤ w.heap.size) := Lib.hid HF0.out.size; have HM2 := rwN HM0 (below_of_grownBy c1) (cbS (cs := bcs (enc n)) a1); have HF2 := bT HF0 (below_of_grownBy c1); clear a1 b1 c1 HM0 HF0)) | ((with_reducible show wpList _ _ _ (⟨some 2, .alloc 35, _, _, _, _⟩ :: _) _ _); go_must (refine wpList_alloc_row rfl 35 rfl (.agg (zbs 64)) zero35 ?_; intro u3 a3 b3 c3; have HG4 : Hid (w.heap.size ≤ u1.heap.size) := Lib.hid HF2.out.size; have HM4 := rwN HM2 (below_of_grownBy c3) (cbS (cs := bcs (List.replicate 64 0)) a3); have HF4 := bT HF2 (below_of_grownBy c3); clear a3 b3 c3 HM2 HF2)) | ((with_reducible show wpList _ _ _ (⟨some 8, .load 22 (.tmp 1), _, _, _, _⟩ :: _) _ _); go_must (refine wpList_exec rfl (vN n) (loadM (.tmp 1) rfl (w.heap.size) n rfl (rwG HM4 1 rfl)) ?_)) | ((with_reducible show wpList _ _ _ (⟨some 4, .alloc 23, _, _, _, _⟩ :: _) _ _); go_must (refine wpList_mk rfl 23 rfl (zbs 32) zero23 (.tmp 4) (.tmp 8) rfl (bcs (enc n)) rfl rfl rfl (by rw [ce]; exact size23) (Eq.symm (by rw [ce]; rfl)) (bcs_one' _) ?_; intro y5 a5 b5; have HNE := Lib.hid (neO HM4 (Nat.le_refl _)); have HG6 : Hid (w.heap.size ≤ u3.heap.size) := Lib.hid HF4.out.size; have HM6 := rwN HM4 b5 a5; have HF6 := bT HF4 b5; clear a5 b5 HM4 HF4; have cb := cell31 (rwG HM6 0 rfl); rw [HT.out] at cb)) | ((with_reducible show wpList _ _ _ (⟨none, .store 5 (.tmp 15) (.tmp 14), _, _, _, _⟩ :: _) _ _); go_must (obtain ⟨tt, htt⟩ := rwG HM6 0 rfl; refine wpList_store_one rfl 5 (.tmp 15) (.tmp 14) rfl (u3.heap.size) 31 rfl .u8 _ rfl tt _ htt size5 (by simp only [List.size_toArray, bcs_len, enc_len]; omega) ?_; intro y7 hh hg hz; rw [HS.out] at hh; have HF7 := Lib.hid (HF6.out.grown hg HF6.out.size (fun r hr => by injection hr with hr; have := HG6.out; omega)); have HM7 := rwD (rwGr (rwT HM6) HNE hg) (cbS (cs := bcs (enc y)) hh); clear cb; clear hh hg hz htt HM6 HF6)) | ((with_reducible show wpList _ _ _ (⟨some 16, .load 23 (.tmp 4), _, _, _, _⟩ :: _) _ _); go_must (refine wpList_exec rfl (vN y) (loadN (.tmp 4) rfl (u3.heap.size) y rfl (rwG HM7 0 rfl)) ?_)) | fail)
  generalize u1.heap.size = gr at *
  generalize u3.heap.size = gy at *
  refine (C0.out _).mono ?_
  rintro e8 x8 ⟨rfl, hb8⟩
  have HM8 := rwC HM7 hb8
  have HF8 := bT HF7 hb8
  clear hb8 HM7 HF7
  go_wp2_with (first | ((with_reducible show wpList _ _ _ (⟨some 19, .build 35 _, _, _, _, _⟩ :: _) _ _); go_must (refine wpList_exec rfl (vR [0, 0]) (exec_buildc rfl (by kernel_rfl)) ?_)) | ((with_reducible show wpList _ _ _ (⟨none, .store 35 (.tmp 2) (.tmp 19), _, _, _, _⟩ :: _) _ _); go_must (refine wpList_put rfl 35 (.tmp 2) (.tmp 19) rfl (gr) rfl (bcs (encs [0, 0])) (bcs (List.replicate 64 0)) rfl (rwG HM8 1 rfl) (by rw [cr]; exact size35) (by rw [cr]; rfl) (bcs_one' _) HF8.out HG4.out ?_; intro y9 hc9 hb9; have HC9 := Lib.hid hc9; have HF9 := Lib.hid hb9; clear hc9 hb9 HM8 HF8)) | fail)
  obtain ⟨tr, htr⟩ := HC9.out
  exact bodyPost_ret (results_cell2 rfl _ _ (gr) tr (bcs (encs [0, 0])).toArray (0, 0) _ rfl htr Try.underlying35 rfl (by rw [List.size_toArray, cr]; exact size35)) rfl ⟨rfl, HF9.out⟩

set_option maxHeartbeats 600000 in
theorem rRead_ro (n t y x m : Nat) (w : World)
    (C0 : Hid (∀ w, Calls Try.prog 16 #[vN y] w (Gives (.bool true) w)))
    (C1 : Hid (∀ w, Calls Try.prog 83 #[vN y] w (Gives (.tuple #[vN x, .bool false]) w)))
    (HT : Hid (((enc n).getD 31 0).toNat = t)) (HTB : Hid (t < 256))
    (HS : Hid ((bcs (enc n)).toArray.setIfInBounds 31 (.int .u8 ((t : Int) % 128)) = (bcs (enc y)).toArray))
    (HOD : Hid (128 ≤ t)) :
    Calls Try.prog 48 #[vN n] w (Gives (.tuple #[vR [0, 0], .int .i64 4]) w) := by
  have HM0 : Hid (Rws w []) := rw0 w
  have HF0 : Hid (Below w.heap.size w w) := Lib.hid (Below.refl _ _)
  have htb : (t : Int) < 256 := by have := HTB.out; omega
  have hto : 128 ≤ (t : Int) := by have := HOD.out; omega
  go_enter Try.func48, Try.ntmps48
  go_wp2_with (first | ((with_reducible show wpList _ _ _ (⟨some 1, .box 22 (.tmp 0), _, _, _, _⟩ :: _) _ _); go_must (refine wpList_box_row rfl 22 (.tmp 0) rfl (bcs (enc n)).toArray rfl ?_; intro u1 a1 b1 c1; have HG2 : Hid (w.heap.size ≤ w.heap.size) := Lib.hid HF0.out.size; have HM2 := rwN HM0 (below_of_grownBy c1) (cbS (cs := bcs (enc n)) a1); have HF2 := bT HF0 (below_of_grownBy c1); clear a1 b1 c1 HM0 HF0)) | ((with_reducible show wpList _ _ _ (⟨some 2, .alloc 35, _, _, _, _⟩ :: _) _ _); go_must (refine wpList_alloc_row rfl 35 rfl (.agg (zbs 64)) zero35 ?_; intro u3 a3 b3 c3; have HG4 : Hid (w.heap.size ≤ u1.heap.size) := Lib.hid HF2.out.size; have HM4 := rwN HM2 (below_of_grownBy c3) (cbS (cs := bcs (List.replicate 64 0)) a3); have HF4 := bT HF2 (below_of_grownBy c3); clear a3 b3 c3 HM2 HF2)) | ((with_reducible show wpList _ _ _ (⟨some 8, .load 22 (.tmp 1), _, _, _, _⟩ :: _) _ _); go_must (refine wpList_exec rfl (vN n) (loadM (.tmp 1) rfl (w.heap.size) n rfl (rwG HM4 1 rfl)) ?_)) | ((with_reducible show wpList _ _ _ (⟨some 4, .alloc 23, _, _, _, _⟩ :: _) _ _); go_must (refine wpList_mk rfl 23 rfl (zbs 32) zero23 (.tmp 4) (.tmp 8) rfl (bcs (enc n)) rfl rfl rfl (by rw [ce]; exact size23) (Eq.symm (by rw [ce]; rfl)) (bcs_one' _) ?_; intro y5 a5 b5; have HNE := Lib.hid (neO HM4 (Nat.le_refl _)); have HG6 : Hid (w.heap.size ≤ u3.heap.size) := Lib.hid HF4.out.size; have HM6 := rwN HM4 b5 a5; have HF6 := bT HF4 b5; clear a5 b5 HM4 HF4; have cb := cell31 (rwG HM6 0 rfl); rw [HT.out] at cb)) | ((with_reducible show wpList _ _ _ (⟨none, .store 5 (.tmp 15) (.tmp 14), _, _, _, _⟩ :: _) _ _); go_must (obtain ⟨tt, htt⟩ := rwG HM6 0 rfl; refine wpList_store_one rfl 5 (.tmp 15) (.tmp 14) rfl (u3.heap.size) 31 rfl .u8 _ rfl tt _ htt size5 (by simp only [List.size_toArray, bcs_len, enc_len]; omega) ?_; intro y7 hh hg hz; rw [HS.out] at hh; have HF7 := Lib.hid (HF6.out.grown hg HF6.out.size (fun r hr => by injection hr with hr; have := HG6.out; omega)); have HM7 := rwD (rwGr (rwT HM6) HNE hg) (cbS (cs := bcs (enc y)) hh); clear cb; clear hh hg hz htt HM6 HF6)) | ((with_reducible show wpList _ _ _ (⟨some 16, .load 23 (.tmp 4), _, _, _, _⟩ :: _) _ _); go_must (refine wpList_exec rfl (vN y) (loadN (.tmp 4) rfl (u3.heap.size) y rfl (rwG HM7 0 rfl)) ?_)) | fail)
  generalize u1.heap.size = gr at *
  generalize u3.heap.size = gy at *
  refine (C0.out _).mono ?_
  rintro e8 x8 ⟨rfl, hb8⟩
  have HM8 := rwC HM7 hb8
  have HF8 := bT HF7 hb8
  clear hb8 HM7 HF7
  go_wp2_with (first | ((with_reducible show wpList _ _ _ (⟨some 21, .load 23 (.tmp 4), _, _, _, _⟩ :: _) _ _); go_must (refine wpList_exec rfl (vN y) (loadN (.tmp 4) rfl (gy) y rfl (rwG HM8 0 rfl)) ?_)) | fail)
  refine (C1.out _).mono ?_
  rintro e9 x9 ⟨rfl, hb9⟩
  have HM9 := rwC HM8 hb9
  have HF9 := bT HF8 hb9
  clear hb9 HM8 HF8
  go_wp2_with (first | ((with_reducible show wpList _ _ _ (⟨some 6, .alloc 23, _, _, _, _⟩ :: _) _ _); go_must (refine wpList_mk rfl 23 rfl (zbs 32) zero23 (.tmp 6) (.tmp 23) rfl (bcs (enc x)) rfl rfl rfl (by rw [ce]; exact size23) (Eq.symm (by rw [ce]; rfl)) (bcs_one' _) ?_; intro y10 a10 b10; have HNX := Lib.hid (neO HM9 (Nat.le_refl _)); have HG11 : Hid (w.heap.size ≤ x9.heap.size) := Lib.hid HF9.out.size; have HM11 := rwN HM9 b10 a10; have HF11 := bT HF9 b10; clear a10 b10 HM9 HF9)) | ((with_reducible show wpList _ _ _ (⟨some 35, .build 35 _, _, _, _, _⟩ :: _) _ _); go_must (refine wpList_exec rfl (vR [0, 0]) (exec_buildc rfl (by kernel_rfl)) ?_)) | ((with_reducible show wpList _ _ _ (⟨none, .store 35 (.tmp 2) (.tmp 35), _, _, _, _⟩ :: _) _ _); go_must (refine wpList_put rfl 35 (.tmp 2) (.tmp 35) rfl (gr) rfl (bcs (encs [0, 0])) (bcs (List.replicate 64 0)) rfl (rwG HM11 2 rfl) (by rw [cr]; exact size35) (by rw [cr]; rfl) (bcs_one' _) HF11.out HG4.out ?_; intro y12 hc12 hb12; have HC12 := Lib.hid hc12; have HF12 := Lib.hid hb12; clear hc12 hb12 HM11 HF11)) | fail)
  generalize x9.heap.size = gx at *
  obtain ⟨tr, htr⟩ := HC12.out
  exact bodyPost_ret (results_cell2 rfl _ _ (gr) tr (bcs (encs [0, 0])).toArray (0, 0) _ rfl htr Try.underlying35 rfl (by rw [List.size_toArray, cr]; exact size35)) rfl ⟨rfl, HF12.out⟩

set_option maxHeartbeats 600000 in
theorem rRead_z (n t y x m : Nat) (w : World)
    (C0 : Hid (∀ w, Calls Try.prog 16 #[vN y] w (Gives (.bool true) w)))
    (C1 : Hid (∀ w, Calls Try.prog 83 #[vN y] w (Gives (.tuple #[vN x, .bool true]) w)))
    (HT : Hid (((enc n).getD 31 0).toNat = t)) (HTB : Hid (t < 256))
    (HS : Hid ((bcs (enc n)).toArray.setIfInBounds 31 (.int .u8 ((t : Int) % 128)) = (bcs (enc y)).toArray))
    (HOD : Hid (128 ≤ t))
    (HE : Hid (∀ w, (Op.equalIn 10000 23 (vN x) (vN 0)).run Try.prog w = .ok true w)) :
    Calls Try.prog 48 #[vN n] w (Gives (.tuple #[vR [0, 0], .int .i64 4]) w) := by
  have HM0 : Hid (Rws w []) := rw0 w
  have HF0 : Hid (Below w.heap.size w w) := Lib.hid (Below.refl _ _)
  have htb : (t : Int) < 256 := by have := HTB.out; omega
  have hto : 128 ≤ (t : Int) := by have := HOD.out; omega
  go_enter Try.func48, Try.ntmps48
  go_wp2_with (first | ((with_reducible show wpList _ _ _ (⟨some 1, .box 22 (.tmp 0), _, _, _, _⟩ :: _) _ _); go_must (refine wpList_box_row rfl 22 (.tmp 0) rfl (bcs (enc n)).toArray rfl ?_; intro u1 a1 b1 c1; have HG2 : Hid (w.heap.size ≤ w.heap.size) := Lib.hid HF0.out.size; have HM2 := rwN HM0 (below_of_grownBy c1) (cbS (cs := bcs (enc n)) a1); have HF2 := bT HF0 (below_of_grownBy c1); clear a1 b1 c1 HM0 HF0)) | ((with_reducible show wpList _ _ _ (⟨some 2, .alloc 35, _, _, _, _⟩ :: _) _ _); go_must (refine wpList_alloc_row rfl 35 rfl (.agg (zbs 64)) zero35 ?_; intro u3 a3 b3 c3; have HG4 : Hid (w.heap.size ≤ u1.heap.size) := Lib.hid HF2.out.size; have HM4 := rwN HM2 (below_of_grownBy c3) (cbS (cs := bcs (List.replicate 64 0)) a3); have HF4 := bT HF2 (below_of_grownBy c3); clear a3 b3 c3 HM2 HF2)) | ((with_reducible show wpList _ _ _ (⟨some 8, .load 22 (.tmp 1), _, _, _, _⟩ :: _) _ _); go_must (refine wpList_exec rfl (vN n) (loadM (.tmp 1) rfl (w.heap.size) n rfl (rwG HM4 1 rfl)) ?_)) | ((with_reducible show wpList _ _ _ (⟨some 4, .alloc 23, _, _, _, _⟩ :: _) _ _); go_must (refine wpList_mk rfl 23 rfl (zbs 32) zero23 (.tmp 4) (.tmp 8) rfl (bcs (enc n)) rfl rfl rfl (by rw [ce]; exact size23) (Eq.symm (by rw [ce]; rfl)) (bcs_one' _) ?_; intro y5 a5 b5; have HNE := Lib.hid (neO HM4 (Nat.le_refl _)); have HG6 : Hid (w.heap.size ≤ u3.heap.size) := Lib.hid HF4.out.size; have HM6 := rwN HM4 b5 a5; have HF6 := bT HF4 b5; clear a5 b5 HM4 HF4; have cb := cell31 (rwG HM6 0 rfl); rw [HT.out] at cb)) | ((with_reducible show wpList _ _ _ (⟨none, .store 5 (.tmp 15) (.tmp 14), _, _, _, _⟩ :: _) _ _); go_must (obtain ⟨tt, htt⟩ := rwG HM6 0 rfl; refine wpList_store_one rfl 5 (.tmp 15) (.tmp 14) rfl (u3.heap.size) 31 rfl .u8 _ rfl tt _ htt size5 (by simp only [List.size_toArray, bcs_len, enc_len]; omega) ?_; intro y7 hh hg hz; rw [HS.out] at hh; have HF7 := Lib.hid (HF6.out.grown hg HF6.out.size (fun r hr => by injection hr with hr; have := HG6.out; omega)); have HM7 := rwD (rwGr (rwT HM6) HNE hg) (cbS (cs := bcs (enc y)) hh); clear cb; clear hh hg hz htt HM6 HF6)) | ((with_reducible show wpList _ _ _ (⟨some 16, .load 23 (.tmp 4), _, _, _, _⟩ :: _) _ _); go_must (refine wpList_exec rfl (vN y) (loadN (.tmp 4) rfl (u3.heap.size) y rfl (rwG HM7 0 rfl)) ?_)) | fail)
  generalize u1.heap.size = gr at *
  generalize u3.heap.size = gy at *
  refine (C0.out _).mono ?_
  rintro e8 x8 ⟨rfl, hb8⟩
  have HM8 := rwC HM7 hb8
  have HF8 := bT HF7 hb8
  clear hb8 HM7 HF7
  go_wp2_with (first | ((with_reducible show wpList _ _ _ (⟨some 21, .load 23 (.tmp 4), _, _, _, _⟩ :: _) _ _); go_must (refine wpList_exec rfl (vN y) (loadN (.tmp 4) rfl (gy) y rfl (rwG HM8 0 rfl)) ?_)) | fail)
  refine (C1.out _).mono ?_
  rintro e9 x9 ⟨rfl, hb9⟩
  have HM9 := rwC HM8 hb9
  have HF9 := bT HF8 hb9
  clear hb9 HM8 HF8
  go_wp2_with (first | ((with_reducible show wpList _ _ _ (⟨some 6, .alloc 23, _, _, _, _⟩ :: _) _ _); go_must (refine wpList_mk rfl 23 rfl (zbs 32) zero23 (.tmp 6) (.tmp 23) rfl (bcs (enc x)) rfl rfl rfl (by rw [ce]; exact size23) (Eq.symm (by rw [ce]; rfl)) (bcs_one' _) ?_; intro y10 a10 b10; have HNX := Lib.hid (neO HM9 (Nat.le_refl _)); have HG11 : Hid (w.heap.size ≤ x9.heap.size) := Lib.hid HF9.out.size; have HM11 := rwN HM9 b10 a10; have HF11 := bT HF9 b10; clear a10 b10 HM9 HF9)) | ((with_reducible show wpList _ _ _ (⟨some 30, .load 23 (.tmp 6), _, _, _, _⟩ :: _) _ _); go_must (refine wpList_exec rfl (vN x) (loadN (.tmp 6) rfl (x9.heap.size) x rfl (rwG HM11 0 rfl)) ?_)) | ((with_reducible show wpList _ _ _ (⟨some 31, .build 23 _, _, _, _, _⟩ :: _) _ _); go_must (refine wpList_exec rfl (vN 0) (exec_build0 rfl) ?_)) | ((with_reducible show wpList _ _ _ (⟨_, .binOp .eql 23 (.tmp 30) (.tmp 31) 23, _, _, _, _⟩ :: _) _ _); go_must (refine wpList_exec rfl (.bool true) (exec_eq23 (m := x) (n := 0) (.tmp 30) (.tmp 31) rfl rfl rfl (HE.out _)) ?_)) | ((with_reducible show wpList _ _ _ (⟨some 35, .build 35 _, _, _, _, _⟩ :: _) _ _); go_must (refine wpList_exec rfl (vR [0, 0]) (exec_buildc rfl (by kernel_rfl)) ?_)) | ((with_reducible show wpList _ _ _ (⟨none, .store 35 (.tmp 2) (.tmp 35), _, _, _, _⟩ :: _) _ _); go_must (refine wpList_put rfl 35 (.tmp 2) (.tmp 35) rfl (gr) rfl (bcs (encs [0, 0])) (bcs (List.replicate 64 0)) rfl (rwG HM11 2 rfl) (by rw [cr]; exact size35) (by rw [cr]; rfl) (bcs_one' _) HF11.out HG4.out ?_; intro y12 hc12 hb12; have HC12 := Lib.hid hc12; have HF12 := Lib.hid hb12; clear hc12 hb12 HM11 HF11)) | fail)
  generalize x9.heap.size = gx at *
  obtain ⟨tr, htr⟩ := HC12.out
  exact bodyPost_ret (results_cell2 rfl _ _ (gr) tr (bcs (encs [0, 0])).toArray (0, 0) _ rfl htr Try.underlying35 rfl (by rw [List.size_toArray, cr]; exact size35)) rfl ⟨rfl, HF12.out⟩

set_option maxHeartbeats 600000 in
theorem rRead_o (n t y x m : Nat) (w : World)
    (C0 : Hid (∀ w, Calls Try.prog 16 #[vN y] w (Gives (.bool true) w)))
    (C1 : Hid (∀ w, Calls Try.prog 83 #[vN y] w (Gives (.tuple #[vN x, .bool true]) w)))
    (C2 : Hid (∀ w, Calls Try.prog 24 #[vN x] w (Gives (vN m) w)))
    (HT : Hid (((enc n).getD 31 0).toNat = t)) (HTB : Hid (t < 256))
    (HS : Hid ((bcs (enc n)).toArray.setIfInBounds 31 (.int .u8 ((t : Int) % 128)) = (bcs (enc y)).toArray))
    (HOD : Hid (128 ≤ t))
    (HE : Hid (∀ w, (Op.equalIn 10000 23 (vN x) (vN 0)).run Try.prog w = .ok false w)) :
    Calls Try.prog 48 #[vN n] w (Gives (.tuple #[vR [m, y], .int .i64 0]) w) := by
  have HM0 : Hid (Rws w []) := rw0 w
  have HF0 : Hid (Below w.heap.size w w) := Lib.hid (Below.refl _ _)
  have htb : (t : Int) < 256 := by have := HTB.out; omega
  have hto : 128 ≤ (t : Int) := by have := HOD.out; omega
  go_enter Try.func48, Try.ntmps48
  go_wp2_with (first | ((with_reducible show wpList _ _ _ (⟨some 1, .box 22 (.tmp 0), _, _, _, _⟩ :: _) _ _); go_must (refine wpList_box_row rfl 22 (.tmp 0) rfl (bcs (enc n)).toArray rfl ?_; intro u1 a1 b1 c1; have HG2 : Hid (w.heap.size ≤ w.heap.size) := Lib.hid HF0.out.size; have HM2 := rwN HM0 (below_of_grownBy c1) (cbS (cs := bcs (enc n)) a1); have HF2 := bT HF0 (below_of_grownBy c1); clear a1 b1 c1 HM0 HF0)) | ((with_reducible show wpList _ _ _ (⟨some 2, .alloc 35, _, _, _, _⟩ :: _) _ _); go_must (refine wpList_alloc_row rfl 35 rfl (.agg (zbs 64)) zero35 ?_; intro u3 a3 b3 c3; have HG4 : Hid (w.heap.size ≤ u1.heap.size) := Lib.hid HF2.out.size; have HM4 := rwN HM2 (below_of_grownBy c3) (cbS (cs := bcs (List.replicate 64 0)) a3); have HF4 := bT HF2 (below_of_grownBy c3); clear a3 b3 c3 HM2 HF2)) | ((with_reducible show wpList _ _ _ (⟨some 8, .load 22 (.tmp 1), _, _, _, _⟩ :: _) _ _); go_must (refine wpList_exec rfl (vN n) (loadM (.tmp 1) rfl (w.heap.size) n rfl (rwG HM4 1 rfl)) ?_)) | ((with_reducible show wpList _ _ _ (⟨some 4, .alloc 23, _, _, _, _⟩ :: _) _ _); go_must (refine wpList_mk rfl 23 rfl (zbs 32) zero23 (.tmp 4) (.tmp 8) rfl (bcs (enc n)) rfl rfl rfl (by rw [ce]; exact size23) (Eq.symm (by rw [ce]; rfl)) (bcs_one' _) ?_; intro y5 a5 b5; have HNE := Lib.hid (neO HM4 (Nat.le_refl _)); have HG6 : Hid (w.heap.size ≤ u3.heap.size) := Lib.hid HF4.out.size; have HM6 := rwN HM4 b5 a5; have HF6 := bT HF4 b5; clear a5 b5 HM4 HF4; have cb := cell31 (rwG HM6 0 rfl); rw [HT.out] at cb)) | ((with_reducible show wpList _ _ _ (⟨none, .store 5 (.tmp 15) (.tmp 14), _, _, _, _⟩ :: _) _ _); go_must (obtain ⟨tt, htt⟩ := rwG HM6 0 rfl; refine wpList_store_one rfl 5 (.tmp 15) (.tmp 14) rfl (u3.heap.size) 31 rfl .u8 _ rfl tt _ htt size5 (by simp only [List.size_toArray, bcs_len, enc_len]; omega) ?_; intro y7 hh hg hz; rw [HS.out] at hh; have HF7 := Lib.hid (HF6.out.grown hg HF6.out.size (fun r hr => by injection hr with hr; have := HG6.out; omega)); have HM7 := rwD (rwGr (rwT HM6) HNE hg) (cbS (cs := bcs (enc y)) hh); clear cb; clear hh hg hz htt HM6 HF6)) | ((with_reducible show wpList _ _ _ (⟨some 16, .load 23 (.tmp 4), _, _, _, _⟩ :: _) _ _); go_must (refine wpList_exec rfl (vN y) (loadN (.tmp 4) rfl (u3.heap.size) y rfl (rwG HM7 0 rfl)) ?_)) | fail)
  generalize u1.heap.size = gr at *
  generalize u3.heap.size = gy at *
  refine (C0.out _).mono ?_
  rintro e8 x8 ⟨rfl, hb8⟩
  have HM8 := rwC HM7 hb8
  have HF8 := bT HF7 hb8
  clear hb8 HM7 HF7
  go_wp2_with (first | ((with_reducible show wpList _ _ _ (⟨some 21, .load 23 (.tmp 4), _, _, _, _⟩ :: _) _ _); go_must (refine wpList_exec rfl (vN y) (loadN (.tmp 4) rfl (gy) y rfl (rwG HM8 0 rfl)) ?_)) | fail)
  refine (C1.out _).mono ?_
  rintro e9 x9 ⟨rfl, hb9⟩
  have HM9 := rwC HM8 hb9
  have HF9 := bT HF8 hb9
  clear hb9 HM8 HF8
  go_wp2_with (first | ((with_reducible show wpList _ _ _ (⟨some 6, .alloc 23, _, _, _, _⟩ :: _) _ _); go_must (refine wpList_mk rfl 23 rfl (zbs 32) zero23 (.tmp 6) (.tmp 23) rfl (bcs (enc x)) rfl rfl rfl (by rw [ce]; exact size23) (Eq.symm (by rw [ce]; rfl)) (bcs_one' _) ?_; intro y10 a10 b10; have HNX := Lib.hid (neO HM9 (Nat.le_refl _)); have HG11 : Hid (w.heap.size ≤ x9.heap.size) := Lib.hid HF9.out.size; have HM11 := rwN HM9 b10 a10; have HF11 := bT HF9 b10; clear a10 b10 HM9 HF9)) | ((with_reducible show wpList _ _ _ (⟨some 30, .load 23 (.tmp 6), _, _, _, _⟩ :: _) _ _); go_must (refine wpList_exec rfl (vN x) (loadN (.tmp 6) rfl (x9.heap.size) x rfl (rwG HM11 0 rfl)) ?_)) | ((with_reducible show wpList _ _ _ (⟨some 31, .build 23 _, _, _, _, _⟩ :: _) _ _); go_must (refine wpList_exec rfl (vN 0) (exec_build0 rfl) ?_)) | ((with_reducible show wpList _ _ _ (⟨_, .binOp .eql 23 (.tmp 30) (.tmp 31) 23, _, _, _, _⟩ :: _) _ _); go_must (refine wpList_exec rfl (.bool false) (exec_eq23 (m := x) (n := 0) (.tmp 30) (.tmp 31) rfl rfl rfl (HE.out _)) ?_)) | ((with_reducible show wpList _ _ _ (⟨some 37, .load 23 (.tmp 6), _, _, _, _⟩ :: _) _ _); go_must (refine wpList_exec rfl (vN x) (loadN (.tmp 6) rfl (x9.heap.size) x rfl (rwG HM11 0 rfl)) ?_)) | fail)
  generalize x9.heap.size = gx at *
  refine (C2.out _).mono ?_
  rintro e12 x12 ⟨rfl, hb12⟩
  have HM12 := rwC HM11 hb12
  have HF12 := bT HF11 hb12
  clear hb12 HM11 HF11
  go_wp2_with (first | ((with_reducible show wpList _ _ _ (⟨none, .store 23 (.tmp 6) (.tmp 38), _, _, _, _⟩ :: _) _ _); go_must (refine wpList_set rfl 23 (.tmp 6) (.tmp 38) rfl (gx) rfl (bcs (enc m)) (bcs (enc x)) rfl (rwG HM12 0 rfl) (by rw [ce]; exact size23) (by rw [ce, ce]) (bcs_one' _) ?_; intro y13 hc hg; have HF13 := Lib.hid (HF12.out.grown hg HF12.out.size (fun r hr => by injection hr with hr; have := HG11.out; omega)); have HM13 := rwD (rwGr (rwT HM12) HNX hg) hc; clear hc hg HM12 HF12)) | ((with_reducible show wpList _ _ _ (⟨some 39, .load 23 (.tmp 6), _, _, _, _⟩ :: _) _ _); go_must (refine wpList_exec rfl (vN m) (loadN (.tmp 6) rfl (gx) m rfl (rwG HM13 0 rfl)) ?_)) | ((with_reducible show wpList _ _ _ (⟨some 40, .load 23 (.tmp 4), _, _, _, _⟩ :: _) _ _); go_must (refine wpList_exec rfl (vN y) (loadN (.tmp 4) rfl (gy) y rfl (rwG HM13 1 rfl)) ?_)) | ((with_reducible show wpList _ _ _ (⟨some 41, .build 35 _, _, _, _, _⟩ :: _) _ _); go_must (refine wpList_exec rfl (vR [m, y]) (exec_build35 (.tmp 39) (.tmp 40) m y rfl rfl rfl) ?_)) | ((with_reducible show wpList _ _ _ (⟨none, .store 35 (.tmp 2) (.tmp 41), _, _, _, _⟩ :: _) _ _); go_must (refine wpList_put rfl 35 (.tmp 2) (.tmp 41) rfl (gr) rfl (bcs (encs [m, y])) (bcs (List.replicate 64 0)) rfl (rwG HM13 2 rfl) (by rw [cr]; exact size35) (by rw [cr]; rfl) (bcs_one' _) HF13.out HG4.out ?_; intro y14 hc14 hb14; have HC14 := Lib.hid hc14; have HF14 := Lib.hid hb14; clear hc14 hb14 HM13 HF13)) | fail)
  obtain ⟨tr, htr⟩ := HC14.out
  exact bodyPost_ret (results_cell2 rfl _ _ (gr) tr (bcs (encs [m, y])).toArray (0, 0) _ rfl htr Try.underlying35 rfl (by rw [List.size_toArray, cr]; exact size35)) rfl ⟨rfl, HF14.out⟩
end Go.Proofs.Ytgdimnbdnepbgaa
