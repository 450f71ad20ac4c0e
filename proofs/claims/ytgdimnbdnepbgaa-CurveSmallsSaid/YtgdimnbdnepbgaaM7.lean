/- Several texts in one. No statement is proved here. -/
import Derived.Test.YtgdimnbdnepbgaaM6
import Derived.Test.YtgdimnbdnepbgaaM5
import Derived.Test.YtgdimnbdnepbgaaM2
import Derived.Laws.MakeOwn
/- Mul2, Mul, Small. No statement is proved here. -/
namespace Go.Proofs.Ytgdimnbdnepbgaa
open Go.RowKit
set_option linter.unusedVariables false
set_option maxRecDepth 40000
set_option linter.unusedSimpArgs false
def oET0 : Oper := { dst := some 5, op := Op.load 23 (Operand.tmp 2), type := 23, pos := "curve.go:72", after := #[], guard := none }
def oET1 : Oper := { dst := some 6, op := Op.load 35 (Operand.tmp 3), type := 35, pos := "curve.go:72", after := #[], guard := none }
def oET2 : Oper := { dst := some 7, op := Op.build 23 #[], type := 23, pos := "curve.go:72", after := #[], guard := none }
def oET3 : Oper := { dst := some 8, op := Op.call { callee := Callee.value (Operand.func 39), args := #[], argTypes := #[] }, type := 35, pos := "curve.go:72", after := #[], guard := none }
def oET4 : Oper := { dst := some 9, op := Op.call { callee := Callee.value (Operand.func 53), args := #[Operand.tmp 5, Operand.tmp 6, Operand.tmp 7, Operand.tmp 8], argTypes := #[23, 35, 23, 35] }, type := 35, pos := "curve.go:72", after := #[{ on := 0, ground := Ground.data }, { on := 1, ground := Ground.data }, { on := 2, ground := Ground.data }, { on := 3, ground := Ground.data }, { on := 3, ground := Ground.chain }], guard := none }
def oET5 : Oper := { dst := none, op := Op.store 35 (Operand.tmp 4) (Operand.tmp 9), type := 0, pos := "curve.go:72", after := #[{ on := 4, ground := Ground.data }, { on := 4, ground := Ground.chain }, { on := 0, ground := Ground.phase }, { on := 1, ground := Ground.phase }, { on := 2, ground := Ground.phase }, { on := 3, ground := Ground.phase }, { on := 4, ground := Ground.phase }], guard := none }

set_option maxHeartbeats 4000000 in
theorem Mul2_core (a b px py qx qy pt qt rx ry : Nat) (GD : Nat → Nat → Nat → Nat → Prop) (w : World)
    (C1 : Hid (∀ w, Calls Try.prog 40 #[vR [px, py]] w (Gives (.int .i64 0) w))) (C2 : Hid (∀ w, Calls Try.prog 40 #[vR [qx, qy]] w (Gives (.int .i64 0) w)))
    (HR1 : Hid (∀ (w : World) (g g1 : Nat), RAt w g [0, 0, 0, 0] → RAt w g1 [px, py] → g ≠ g1 → Calls Try.prog 80 #[.pointer (some ⟨g, 0, none⟩), .pointer (some ⟨g1, 0, none⟩)] w (SetsR g [px, py, 1, pt] w)))
    (HR2 : Hid (∀ (w : World) (g g1 : Nat), RAt w g [0, 0, 0, 0] → RAt w g1 [qx, qy] → g ≠ g1 → Calls Try.prog 80 #[.pointer (some ⟨g, 0, none⟩), .pointer (some ⟨g1, 0, none⟩)] w (SetsR g [qx, qy, 1, qt] w)))
    (HM : Hid (∀ (w : World) (g ga gp gb gq : Nat), RAt w g [0, 0, 0, 0] → RAt w ga [a] → RAt w gp [px, py, 1, pt] → RAt w gb [b] → RAt w gq [qx, qy, 1, qt] → ga ≠ g → gp ≠ g → gb ≠ g → gq ≠ g → Calls Try.prog 88 #[.pointer (some ⟨g, 0, none⟩), .pointer (some ⟨ga, 0, none⟩), .pointer (some ⟨gp, 0, none⟩), .pointer (some ⟨gb, 0, none⟩), .pointer (some ⟨gq, 0, none⟩)] w (fun e w' => ∃ X Y Z T, GD X Y Z T ∧ SetsR g [X, Y, Z, T] w e w')))
    (HP : Hid (∀ X Y Z T, GD X Y Z T → ∀ (w : World) (g : Nat), RAt w g [X, Y, Z, T] → Calls Try.prog 82 #[.pointer (some ⟨g, 0, none⟩)] w (Gives (vR [rx, ry]) w))) :
    Calls Try.prog 53 #[vN a, vR [px, py], vN b, vR [qx, qy]] w (Gives (vR [rx, ry]) w) := by
  have HF_0 : Hid (Below w.heap.size w w) := Lib.hid (Below.refl _ _)
  go_enter Try.func53, Try.ntmps53
  go_wp2_with (first | ((with_reducible show wpList _ _ _ (⟨some 4, .box 23 (.tmp 0), _, _, _, _⟩ :: _) _ _); go_must (refine wpList_box_row rfl 23 (.tmp 0) rfl (bcs (enc a)).toArray rfl ?_; intro u1 ha1 hza1 hga1; have Nga_1 : Hid (RAt u1 w.heap.size [a]) := Lib.hid (NAt.row ⟨_, ha1⟩); have HF_1 : Hid (Below w.heap.size w u1) := Lib.hid (HF_0.out.grown hga1 HF_0.out.size (by simp)); have HGE1 : Hid (w.heap.size ≤ w.heap.size) := Lib.hid HF_0.out.size; clear ha1 hza1 hga1 HF_0)) | ((with_reducible show wpList _ _ _ (⟨some 5, .box 35 (.tmp 1), _, _, _, _⟩ :: _) _ _); go_must (refine wpList_box_row rfl 35 (.tmp 1) rfl (bcs (encs [px, py])).toArray rfl ?_; intro u2 ha2 hza2 hga2; have Nga_2 := Lib.hid (Nga_1.out.grown hga2 (by simp)); have Ngp_2 : Hid (RAt u2 u1.heap.size [px, py]) := Lib.hid (⟨_, ha2⟩); have HF_2 : Hid (Below w.heap.size w u2) := Lib.hid (HF_1.out.grown hga2 HF_1.out.size (by simp)); have HNE2_0 : Hid (w.heap.size ≠ u1.heap.size) := Lib.hid (by have := Nga_1.out.lt; omega); have HGE2 : Hid (w.heap.size ≤ u1.heap.size) := Lib.hid HF_1.out.size; clear ha2 hza2 hga2 Nga_1 HF_1)) | ((with_reducible show wpList _ _ _ (⟨some 6, .box 23 (.tmp 2), _, _, _, _⟩ :: _) _ _); go_must (refine wpList_box_row rfl 23 (.tmp 2) rfl (bcs (enc b)).toArray rfl ?_; intro u3 ha3 hza3 hga3; have Nga_3 := Lib.hid (Nga_2.out.grown hga3 (by simp)); have Ngp_3 := Lib.hid (Ngp_2.out.grown hga3 (by simp)); have Ngb_3 : Hid (RAt u3 u2.heap.size [b]) := Lib.hid (NAt.row ⟨_, ha3⟩); have HF_3 : Hid (Below w.heap.size w u3) := Lib.hid (HF_2.out.grown hga3 HF_2.out.size (by simp)); have HNE3_1 : Hid (w.heap.size ≠ u2.heap.size) := Lib.hid (by have := Nga_2.out.lt; omega); have HNE3_2 : Hid (u1.heap.size ≠ u2.heap.size) := Lib.hid (by have := Ngp_2.out.lt; omega); have HGE3 : Hid (w.heap.size ≤ u2.heap.size) := Lib.hid HF_2.out.size; clear ha3 hza3 hga3 Nga_2 Ngp_2 HF_2)) | ((with_reducible show wpList _ _ _ (⟨some 7, .box 35 (.tmp 3), _, _, _, _⟩ :: _) _ _); go_must (refine wpList_box_row rfl 35 (.tmp 3) rfl (bcs (encs [qx, qy])).toArray rfl ?_; intro u4 ha4 hza4 hga4; have Nga_4 := Lib.hid (Nga_3.out.grown hga4 (by simp)); have Ngp_4 := Lib.hid (Ngp_3.out.grown hga4 (by simp)); have Ngb_4 := Lib.hid (Ngb_3.out.grown hga4 (by simp)); have Ngq_4 : Hid (RAt u4 u3.heap.size [qx, qy]) := Lib.hid (⟨_, ha4⟩); have HF_4 : Hid (Below w.heap.size w u4) := Lib.hid (HF_3.out.grown hga4 HF_3.out.size (by simp)); have HNE4_3 : Hid (w.heap.size ≠ u3.heap.size) := Lib.hid (by have := Nga_3.out.lt; omega); have HNE4_4 : Hid (u1.heap.size ≠ u3.heap.size) := Lib.hid (by have := Ngp_3.out.lt; omega); have HNE4_5 : Hid (u2.heap.size ≠ u3.heap.size) := Lib.hid (by have := Ngb_3.out.lt; omega); have HGE4 : Hid (w.heap.size ≤ u3.heap.size) := Lib.hid HF_3.out.size; clear ha4 hza4 hga4 Nga_3 Ngp_3 Ngb_3 HF_3)) | ((with_reducible show wpList _ _ _ (⟨some 8, .alloc 35, _, _, _, _⟩ :: _) _ _); go_must (refine wpList_alloc_row rfl 35 rfl (.agg (zbs 64)) zero35 ?_; intro u5 ha5 hza5 hga5; have Nga_5 := Lib.hid (Nga_4.out.grown hga5 (by simp)); have Ngp_5 := Lib.hid (Ngp_4.out.grown hga5 (by simp)); have Ngb_5 := Lib.hid (Ngb_4.out.grown hga5 (by simp)); have Ngq_5 := Lib.hid (Ngq_4.out.grown hga5 (by simp)); have Ngr_5 : Hid (RAt u5 u4.heap.size [0, 0]) := Lib.hid (zrow (k := 2) ha5); have HF_5 : Hid (Below w.heap.size w u5) := Lib.hid (HF_4.out.grown hga5 HF_4.out.size (by simp)); have HNE5_6 : Hid (w.heap.size ≠ u4.heap.size) := Lib.hid (by have := Nga_4.out.lt; omega); have HNE5_7 : Hid (u1.heap.size ≠ u4.heap.size) := Lib.hid (by have := Ngp_4.out.lt; omega); have HNE5_8 : Hid (u2.heap.size ≠ u4.heap.size) := Lib.hid (by have := Ngb_4.out.lt; omega); have HNE5_9 : Hid (u3.heap.size ≠ u4.heap.size) := Lib.hid (by have := Ngq_4.out.lt; omega); have HGE5 : Hid (w.heap.size ≤ u4.heap.size) := Lib.hid HF_4.out.size; clear ha5 hza5 hga5 Nga_4 Ngp_4 Ngb_4 Ngq_4 HF_4)) | ((with_reducible show wpList _ _ _ (⟨_, .load 35 (.tmp 5), _, _, _, _⟩ :: _) _ _); go_must (refine wpList_exec rfl (vR [px, py]) (exec_loadP (.tmp 5) rfl (u1.heap.size) px py rfl Ngp_5.out) ?_)) | fail)
  generalize u1.heap.size = gp at *
  generalize u2.heap.size = gb at *
  generalize u3.heap.size = gq at *
  generalize u4.heap.size = gr at *
  refine (C1.out _).mono ?_
  rintro e6 x6 ⟨rfl, hb6⟩
  have Nga_6 := hKq Nga_5 hb6
  have Ngp_6 := hKq Ngp_5 hb6
  have Ngb_6 := hKq Ngb_5 hb6
  have Ngq_6 := hKq Ngq_5 hb6
  have Ngr_6 := hKq Ngr_5 hb6
  have HF_6 := fTq HF_5 hb6
  clear hb6 Nga_5 Ngp_5 Ngb_5 Ngq_5 Ngr_5 HF_5
  go_wp2_with (first | ((with_reducible show wpList _ _ _ (⟨_, .load 35 (.tmp 7), _, _, _, _⟩ :: _) _ _); go_must (refine wpList_exec rfl (vR [qx, qy]) (exec_loadP (.tmp 7) rfl (gq) qx qy rfl Ngq_6.out) ?_)) | fail)
  refine (C2.out _).mono ?_
  rintro e7 x7 ⟨rfl, hb7⟩
  have Nga_7 := hKq Nga_6 hb7
  have Ngp_7 := hKq Ngp_6 hb7
  have Ngb_7 := hKq Ngb_6 hb7
  have Ngq_7 := hKq Ngq_6 hb7
  have Ngr_7 := hKq Ngr_6 hb7
  have HF_7 := fTq HF_6 hb7
  clear hb7 Nga_6 Ngp_6 Ngb_6 Ngq_6 Ngr_6 HF_6
  go_wp2_with (first | ((with_reducible show wpList _ _ _ (⟨some 9, .alloc 76, _, _, _, _⟩ :: _) _ _); go_must (refine wpList_alloc_row rfl 76 rfl (.agg (zbs 128)) zero76 ?_; intro u8 ha8 hza8 hga8; have Nga_8 := Lib.hid (Nga_7.out.grown hga8 (by simp)); have Ngp_8 := Lib.hid (Ngp_7.out.grown hga8 (by simp)); have Ngb_8 := Lib.hid (Ngb_7.out.grown hga8 (by simp)); have Ngq_8 := Lib.hid (Ngq_7.out.grown hga8 (by simp)); have Ngr_8 := Lib.hid (Ngr_7.out.grown hga8 (by simp)); have Ngu_8 : Hid (RAt u8 x7.heap.size [0, 0, 0, 0]) := Lib.hid (zrow (k := 4) ha8); have HF_8 : Hid (Below w.heap.size w u8) := Lib.hid (HF_7.out.grown hga8 HF_7.out.size (by simp)); have HNE8_10 : Hid (w.heap.size ≠ x7.heap.size) := Lib.hid (by have := Nga_7.out.lt; omega); have HNE8_11 : Hid (gp ≠ x7.heap.size) := Lib.hid (by have := Ngp_7.out.lt; omega); have HNE8_12 : Hid (gb ≠ x7.heap.size) := Lib.hid (by have := Ngb_7.out.lt; omega); have HNE8_13 : Hid (gq ≠ x7.heap.size) := Lib.hid (by have := Ngq_7.out.lt; omega); have HNE8_14 : Hid (gr ≠ x7.heap.size) := Lib.hid (by have := Ngr_7.out.lt; omega); have HGE8 : Hid (w.heap.size ≤ x7.heap.size) := Lib.hid HF_7.out.size; clear ha8 hza8 hga8 Nga_7 Ngp_7 Ngb_7 Ngq_7 Ngr_7 HF_7)) | ((with_reducible show wpList _ _ _ (⟨some 10, .alloc 76, _, _, _, _⟩ :: _) _ _); go_must (refine wpList_alloc_row rfl 76 rfl (.agg (zbs 128)) zero76 ?_; intro u9 ha9 hza9 hga9; have Nga_9 := Lib.hid (Nga_8.out.grown hga9 (by simp)); have Ngp_9 := Lib.hid (Ngp_8.out.grown hga9 (by simp)); have Ngb_9 := Lib.hid (Ngb_8.out.grown hga9 (by simp)); have Ngq_9 := Lib.hid (Ngq_8.out.grown hga9 (by simp)); have Ngr_9 := Lib.hid (Ngr_8.out.grown hga9 (by simp)); have Ngu_9 := Lib.hid (Ngu_8.out.grown hga9 (by simp)); have Ngv_9 : Hid (RAt u9 u8.heap.size [0, 0, 0, 0]) := Lib.hid (zrow (k := 4) ha9); have HF_9 : Hid (Below w.heap.size w u9) := Lib.hid (HF_8.out.grown hga9 HF_8.out.size (by simp)); have HNE9_15 : Hid (w.heap.size ≠ u8.heap.size) := Lib.hid (by have := Nga_8.out.lt; omega); have HNE9_16 : Hid (gp ≠ u8.heap.size) := Lib.hid (by have := Ngp_8.out.lt; omega); have HNE9_17 : Hid (gb ≠ u8.heap.size) := Lib.hid (by have := Ngb_8.out.lt; omega); have HNE9_18 : Hid (gq ≠ u8.heap.size) := Lib.hid (by have := Ngq_8.out.lt; omega); have HNE9_19 : Hid (gr ≠ u8.heap.size) := Lib.hid (by have := Ngr_8.out.lt; omega); have HNE9_20 : Hid (x7.heap.size ≠ u8.heap.size) := Lib.hid (by have := Ngu_8.out.lt; omega); have HGE9 : Hid (w.heap.size ≤ u8.heap.size) := Lib.hid HF_8.out.size; clear ha9 hza9 hga9 Nga_8 Ngp_8 Ngb_8 Ngq_8 Ngr_8 Ngu_8 HF_8)) | ((with_reducible show wpList _ _ _ (⟨some 11, .alloc 76, _, _, _, _⟩ :: _) _ _); go_must (refine wpList_alloc_row rfl 76 rfl (.agg (zbs 128)) zero76 ?_; intro u10 ha10 hza10 hga10; have Nga_10 := Lib.hid (Nga_9.out.grown hga10 (by simp)); have Ngp_10 := Lib.hid (Ngp_9.out.grown hga10 (by simp)); have Ngb_10 := Lib.hid (Ngb_9.out.grown hga10 (by simp)); have Ngq_10 := Lib.hid (Ngq_9.out.grown hga10 (by simp)); have Ngr_10 := Lib.hid (Ngr_9.out.grown hga10 (by simp)); have Ngu_10 := Lib.hid (Ngu_9.out.grown hga10 (by simp)); have Ngv_10 := Lib.hid (Ngv_9.out.grown hga10 (by simp)); have Ngw_10 : Hid (RAt u10 u9.heap.size [0, 0, 0, 0]) := Lib.hid (zrow (k := 4) ha10); have HF_10 : Hid (Below w.heap.size w u10) := Lib.hid (HF_9.out.grown hga10 HF_9.out.size (by simp)); have HNE10_21 : Hid (w.heap.size ≠ u9.heap.size) := Lib.hid (by have := Nga_9.out.lt; omega); have HNE10_22 : Hid (gp ≠ u9.heap.size) := Lib.hid (by have := Ngp_9.out.lt; omega); have HNE10_23 : Hid (gb ≠ u9.heap.size) := Lib.hid (by have := Ngb_9.out.lt; omega); have HNE10_24 : Hid (gq ≠ u9.heap.size) := Lib.hid (by have := Ngq_9.out.lt; omega); have HNE10_25 : Hid (gr ≠ u9.heap.size) := Lib.hid (by have := Ngr_9.out.lt; omega); have HNE10_26 : Hid (x7.heap.size ≠ u9.heap.size) := Lib.hid (by have := Ngu_9.out.lt; omega); have HNE10_27 : Hid (u8.heap.size ≠ u9.heap.size) := Lib.hid (by have := Ngv_9.out.lt; omega); have HGE10 : Hid (w.heap.size ≤ u9.heap.size) := Lib.hid HF_9.out.size; clear ha10 hza10 hga10 Nga_9 Ngp_9 Ngb_9 Ngq_9 Ngr_9 Ngu_9 Ngv_9 HF_9)) | fail)
  generalize x7.heap.size = gu at *
  generalize u8.heap.size = gv at *
  generalize u9.heap.size = gw at *
  refine (HR1.out _ _ _ Ngu_10.out Ngp_10.out HNE8_11.out.symm).mono ?_
  rintro e11 x11 ⟨rfl, hr11, hk11⟩
  have Nga_11 := Lib.hid (Nga_10.out.keeps hk11 (by have := HNE8_10.out; show ¬ _ = _; omega))
  have Ngp_11 := Lib.hid (Ngp_10.out.keeps hk11 (by have := HNE8_11.out; show ¬ _ = _; omega))
  have Ngb_11 := Lib.hid (Ngb_10.out.keeps hk11 (by have := HNE8_12.out; show ¬ _ = _; omega))
  have Ngq_11 := Lib.hid (Ngq_10.out.keeps hk11 (by have := HNE8_13.out; show ¬ _ = _; omega))
  have Ngr_11 := Lib.hid (Ngr_10.out.keeps hk11 (by have := HNE8_14.out; show ¬ _ = _; omega))
  have Ngu_11 : Hid (RAt x11 gu [px, py, 1, pt]) := Lib.hid hr11
  have Ngv_11 := Lib.hid (Ngv_10.out.keeps hk11 (by have := HNE9_20.out; show ¬ _ = _; omega))
  have Ngw_11 := Lib.hid (Ngw_10.out.keeps hk11 (by have := HNE10_26.out; show ¬ _ = _; omega))
  have HF_11 : Hid (Below w.heap.size w x11) := Lib.hid (HF_10.out.trans (hk11.below HF_10.out.size (fun k hlt => by have := HGE8.out; show ¬ _ = _; omega)))
  clear hr11 hk11 Nga_10 Ngp_10 Ngb_10 Ngq_10 Ngr_10 Ngu_10 Ngv_10 Ngw_10 HF_10
  go_wp2_with fail
  refine (HR2.out _ _ _ Ngv_11.out Ngq_11.out HNE9_18.out.symm).mono ?_
  rintro e12 x12 ⟨rfl, hr12, hk12⟩
  have Nga_12 := Lib.hid (Nga_11.out.keeps hk12 (by have := HNE9_15.out; show ¬ _ = _; omega))
  have Ngp_12 := Lib.hid (Ngp_11.out.keeps hk12 (by have := HNE9_16.out; show ¬ _ = _; omega))
  have Ngb_12 := Lib.hid (Ngb_11.out.keeps hk12 (by have := HNE9_17.out; show ¬ _ = _; omega))
  have Ngq_12 := Lib.hid (Ngq_11.out.keeps hk12 (by have := HNE9_18.out; show ¬ _ = _; omega))
  have Ngr_12 := Lib.hid (Ngr_11.out.keeps hk12 (by have := HNE9_19.out; show ¬ _ = _; omega))
  have Ngu_12 := Lib.hid (Ngu_11.out.keeps hk12 (by have := HNE9_20.out; show ¬ _ = _; omega))
  have Ngv_12 : Hid (RAt x12 gv [qx, qy, 1, qt]) := Lib.hid hr12
  have Ngw_12 := Lib.hid (Ngw_11.out.keeps hk12 (by have := HNE10_27.out; show ¬ _ = _; omega))
  have HF_12 : Hid (Below w.heap.size w x12) := Lib.hid (HF_11.out.trans (hk12.below HF_11.out.size (fun k hlt => by have := HGE9.out; show ¬ _ = _; omega)))
  clear hr12 hk12 Nga_11 Ngp_11 Ngb_11 Ngq_11 Ngr_11 Ngu_11 Ngv_11 Ngw_11 HF_11
  go_wp2_with fail
  refine (HM.out _ _ _ _ _ _ Ngw_12.out Nga_12.out Ngu_12.out Ngb_12.out Ngv_12.out HNE10_21.out HNE10_26.out HNE10_23.out HNE10_27.out).mono ?_
  rintro e13 x13 ⟨X, Y, Z, T, hGD, rfl, hr13, hk13⟩
  have HGD := Lib.hid hGD
  clear hGD
  have Nga_13 := Lib.hid (Nga_12.out.keeps hk13 (by have := HNE10_21.out; show ¬ _ = _; omega))
  have Ngp_13 := Lib.hid (Ngp_12.out.keeps hk13 (by have := HNE10_22.out; show ¬ _ = _; omega))
  have Ngb_13 := Lib.hid (Ngb_12.out.keeps hk13 (by have := HNE10_23.out; show ¬ _ = _; omega))
  have Ngq_13 := Lib.hid (Ngq_12.out.keeps hk13 (by have := HNE10_24.out; show ¬ _ = _; omega))
  have Ngr_13 := Lib.hid (Ngr_12.out.keeps hk13 (by have := HNE10_25.out; show ¬ _ = _; omega))
  have Ngu_13 := Lib.hid (Ngu_12.out.keeps hk13 (by have := HNE10_26.out; show ¬ _ = _; omega))
  have Ngv_13 := Lib.hid (Ngv_12.out.keeps hk13 (by have := HNE10_27.out; show ¬ _ = _; omega))
  have Ngw_13 : Hid (RAt x13 gw [X, Y, Z, T]) := Lib.hid hr13
  have HF_13 : Hid (Below w.heap.size w x13) := Lib.hid (HF_12.out.trans (hk13.below HF_12.out.size (fun k hlt => by have := HGE10.out; show ¬ _ = _; omega)))
  clear hr13 hk13 Nga_12 Ngp_12 Ngb_12 Ngq_12 Ngr_12 Ngu_12 Ngv_12 Ngw_12 HF_12
  go_wp2_with fail
  refine (HP.out X Y Z T HGD.out _ _ Ngw_13.out).mono ?_
  rintro e14 x14 ⟨rfl, hb14⟩
  have Nga_14 := hKq Nga_13 hb14
  have Ngp_14 := hKq Ngp_13 hb14
  have Ngb_14 := hKq Ngb_13 hb14
  have Ngq_14 := hKq Ngq_13 hb14
  have Ngr_14 := hKq Ngr_13 hb14
  have Ngu_14 := hKq Ngu_13 hb14
  have Ngv_14 := hKq Ngv_13 hb14
  have Ngw_14 := hKq Ngw_13 hb14
  have HF_14 := fTq HF_13 hb14
  clear hb14 Nga_13 Ngp_13 Ngb_13 Ngq_13 Ngr_13 Ngu_13 Ngv_13 Ngw_13 HF_13
  go_wp2_with (first | ((with_reducible show wpList _ _ _ (⟨none, .store 35 (.tmp 8) (.tmp 24), _, _, _, _⟩ :: _) _ _); go_must (refine wpList_storeP rfl (.tmp 8) (.tmp 24) rfl (gr) [0, 0] rx ry rfl rfl Ngr_14.out rfl ?_; intro y15 hr15 hg15 hz15; have Nga_15 := hGq Nga_14 hg15 HNE5_6; have Ngp_15 := hGq Ngp_14 hg15 HNE5_7; have Ngb_15 := hGq Ngb_14 hg15 HNE5_8; have Ngq_15 := hGq Ngq_14 hg15 HNE5_9; have Ngr_15 : Hid (RAt y15 gr [rx, ry]) := Lib.hid hr15; have Ngu_15 := hGq Ngu_14 hg15 HNE8_14; have Ngv_15 := hGq Ngv_14 hg15 HNE9_19; have Ngw_15 := hGq Ngw_14 hg15 HNE10_25; have HF_15 : Hid (Below w.heap.size w y15) := Lib.hid (HF_14.out.grown hg15 HF_14.out.size (fun r hr => by injection hr with hr; have := HGE5.out; omega)); clear hr15 hg15 hz15 Nga_14 Ngp_14 Ngb_14 Ngq_14 Ngr_14 Ngu_14 Ngv_14 Ngw_14 HF_14)) | fail)
  go_wp2_with fail
  obtain ⟨tr, htr⟩ := Ngr_15.out
  refine bodyPost_ret (results_cell_row rfl _ _ gr tr (bcs (encs [rx, ry])).toArray _ _ rfl htr Try.underlying35 rfl (by rw [List.size_toArray, bcs_len, encs_len]; exact size35)) rfl ?_
  exact ⟨rfl, HF_15.out⟩

set_option maxHeartbeats 4000000 in
theorem Mul2_bad1 (a b px py qx qy : Nat) (w : World) (C1 : Hid (∀ w, Calls Try.prog 40 #[vR [px, py]] w (Gives (.int .i64 2) w))) (CZ : Hid (∀ w, Calls Try.prog 39 #[] w (Gives (vR [0, 1]) w))) :
    Calls Try.prog 53 #[vN a, vR [px, py], vN b, vR [qx, qy]] w (Gives (vR [0, 1]) w) := by
  have HF_0 : Hid (Below w.heap.size w w) := Lib.hid (Below.refl _ _)
  go_enter Try.func53, Try.ntmps53
  go_wp2_with (first | ((with_reducible show wpList _ _ _ (⟨some 4, .box 23 (.tmp 0), _, _, _, _⟩ :: _) _ _); go_must (refine wpList_box_row rfl 23 (.tmp 0) rfl (bcs (enc a)).toArray rfl ?_; intro u16 ha16 hza16 hga16; have Nga_16 : Hid (RAt u16 w.heap.size [a]) := Lib.hid (NAt.row ⟨_, ha16⟩); have HF_16 : Hid (Below w.heap.size w u16) := Lib.hid (HF_0.out.grown hga16 HF_0.out.size (by simp)); have HGE16 : Hid (w.heap.size ≤ w.heap.size) := Lib.hid HF_0.out.size; clear ha16 hza16 hga16 HF_0)) | ((with_reducible show wpList _ _ _ (⟨some 5, .box 35 (.tmp 1), _, _, _, _⟩ :: _) _ _); go_must (refine wpList_box_row rfl 35 (.tmp 1) rfl (bcs (encs [px, py])).toArray rfl ?_; intro u17 ha17 hza17 hga17; have Nga_17 := Lib.hid (Nga_16.out.grown hga17 (by simp)); have Ngp_17 : Hid (RAt u17 u16.heap.size [px, py]) := Lib.hid (⟨_, ha17⟩); have HF_17 : Hid (Below w.heap.size w u17) := Lib.hid (HF_16.out.grown hga17 HF_16.out.size (by simp)); have HNE17_0 : Hid (w.heap.size ≠ u16.heap.size) := Lib.hid (by have := Nga_16.out.lt; omega); have HGE17 : Hid (w.heap.size ≤ u16.heap.size) := Lib.hid HF_16.out.size; clear ha17 hza17 hga17 Nga_16 HF_16)) | ((with_reducible show wpList _ _ _ (⟨some 6, .box 23 (.tmp 2), _, _, _, _⟩ :: _) _ _); go_must (refine wpList_box_row rfl 23 (.tmp 2) rfl (bcs (enc b)).toArray rfl ?_; intro u18 ha18 hza18 hga18; have Nga_18 := Lib.hid (Nga_17.out.grown hga18 (by simp)); have Ngp_18 := Lib.hid (Ngp_17.out.grown hga18 (by simp)); have Ngb_18 : Hid (RAt u18 u17.heap.size [b]) := Lib.hid (NAt.row ⟨_, ha18⟩); have HF_18 : Hid (Below w.heap.size w u18) := Lib.hid (HF_17.out.grown hga18 HF_17.out.size (by simp)); have HNE18_1 : Hid (w.heap.size ≠ u17.heap.size) := Lib.hid (by have := Nga_17.out.lt; omega); have HNE18_2 : Hid (u16.heap.size ≠ u17.heap.size) := Lib.hid (by have := Ngp_17.out.lt; omega); have HGE18 : Hid (w.heap.size ≤ u17.heap.size) := Lib.hid HF_17.out.size; clear ha18 hza18 hga18 Nga_17 Ngp_17 HF_17)) | ((with_reducible show wpList _ _ _ (⟨some 7, .box 35 (.tmp 3), _, _, _, _⟩ :: _) _ _); go_must (refine wpList_box_row rfl 35 (.tmp 3) rfl (bcs (encs [qx, qy])).toArray rfl ?_; intro u19 ha19 hza19 hga19; have Nga_19 := Lib.hid (Nga_18.out.grown hga19 (by simp)); have Ngp_19 := Lib.hid (Ngp_18.out.grown hga19 (by simp)); have Ngb_19 := Lib.hid (Ngb_18.out.grown hga19 (by simp)); have Ngq_19 : Hid (RAt u19 u18.heap.size [qx, qy]) := Lib.hid (⟨_, ha19⟩); have HF_19 : Hid (Below w.heap.size w u19) := Lib.hid (HF_18.out.grown hga19 HF_18.out.size (by simp)); have HNE19_3 : Hid (w.heap.size ≠ u18.heap.size) := Lib.hid (by have := Nga_18.out.lt; omega); have HNE19_4 : Hid (u16.heap.size ≠ u18.heap.size) := Lib.hid (by have := Ngp_18.out.lt; omega); have HNE19_5 : Hid (u17.heap.size ≠ u18.heap.size) := Lib.hid (by have := Ngb_18.out.lt; omega); have HGE19 : Hid (w.heap.size ≤ u18.heap.size) := Lib.hid HF_18.out.size; clear ha19 hza19 hga19 Nga_18 Ngp_18 Ngb_18 HF_18)) | ((with_reducible show wpList _ _ _ (⟨some 8, .alloc 35, _, _, _, _⟩ :: _) _ _); go_must (refine wpList_alloc_row rfl 35 rfl (.agg (zbs 64)) zero35 ?_; intro u20 ha20 hza20 hga20; have Nga_20 := Lib.hid (Nga_19.out.grown hga20 (by simp)); have Ngp_20 := Lib.hid (Ngp_19.out.grown hga20 (by simp)); have Ngb_20 := Lib.hid (Ngb_19.out.grown hga20 (by simp)); have Ngq_20 := Lib.hid (Ngq_19.out.grown hga20 (by simp)); have Ngr_20 : Hid (RAt u20 u19.heap.size [0, 0]) := Lib.hid (zrow (k := 2) ha20); have HF_20 : Hid (Below w.heap.size w u20) := Lib.hid (HF_19.out.grown hga20 HF_19.out.size (by simp)); have HNE20_6 : Hid (w.heap.size ≠ u19.heap.size) := Lib.hid (by have := Nga_19.out.lt; omega); have HNE20_7 : Hid (u16.heap.size ≠ u19.heap.size) := Lib.hid (by have := Ngp_19.out.lt; omega); have HNE20_8 : Hid (u17.heap.size ≠ u19.heap.size) := Lib.hid (by have := Ngb_19.out.lt; omega); have HNE20_9 : Hid (u18.heap.size ≠ u19.heap.size) := Lib.hid (by have := Ngq_19.out.lt; omega); have HGE20 : Hid (w.heap.size ≤ u19.heap.size) := Lib.hid HF_19.out.size; clear ha20 hza20 hga20 Nga_19 Ngp_19 Ngb_19 Ngq_19 HF_19)) | ((with_reducible show wpList _ _ _ (⟨_, .load 35 (.tmp 5), _, _, _, _⟩ :: _) _ _); go_must (refine wpList_exec rfl (vR [px, py]) (exec_loadP (.tmp 5) rfl (u16.heap.size) px py rfl Ngp_20.out) ?_)) | fail)
  generalize u16.heap.size = gp at *
  generalize u17.heap.size = gb at *
  generalize u18.heap.size = gq at *
  generalize u19.heap.size = gr at *
  refine (C1.out _).mono ?_
  rintro e21 x21 ⟨rfl, hb21⟩
  have Nga_21 := hKq Nga_20 hb21
  have Ngp_21 := hKq Ngp_20 hb21
  have Ngb_21 := hKq Ngb_20 hb21
  have Ngq_21 := hKq Ngq_20 hb21
  have Ngr_21 := hKq Ngr_20 hb21
  have HF_21 := fTq HF_20 hb21
  clear hb21 Nga_20 Ngp_20 Ngb_20 Ngq_20 Ngr_20 HF_20
  go_wp2_with fail
  refine (CZ.out _).mono ?_
  rintro e22 x22 ⟨rfl, hb22⟩
  have Nga_22 := hKq Nga_21 hb22
  have Ngp_22 := hKq Ngp_21 hb22
  have Ngb_22 := hKq Ngb_21 hb22
  have Ngq_22 := hKq Ngq_21 hb22
  have Ngr_22 := hKq Ngr_21 hb22
  have HF_22 := fTq HF_21 hb22
  clear hb22 Nga_21 Ngp_21 Ngb_21 Ngq_21 Ngr_21 HF_21
  go_wp2_with (first | ((with_reducible show wpList _ _ _ (⟨none, .store 35 (.tmp 8) (.tmp 20), _, _, _, _⟩ :: _) _ _); go_must (refine wpList_storeP rfl (.tmp 8) (.tmp 20) rfl (gr) [0, 0] 0 1 rfl rfl Ngr_22.out rfl ?_; intro y23 hr23 hg23 hz23; have Nga_23 := hGq Nga_22 hg23 HNE20_6; have Ngp_23 := hGq Ngp_22 hg23 HNE20_7; have Ngb_23 := hGq Ngb_22 hg23 HNE20_8; have Ngq_23 := hGq Ngq_22 hg23 HNE20_9; have Ngr_23 : Hid (RAt y23 gr [0, 1]) := Lib.hid hr23; have HF_23 : Hid (Below w.heap.size w y23) := Lib.hid (HF_22.out.grown hg23 HF_22.out.size (fun r hr => by injection hr with hr; have := HGE20.out; omega)); clear hr23 hg23 hz23 Nga_22 Ngp_22 Ngb_22 Ngq_22 Ngr_22 HF_22)) | fail)
  go_wp2_with fail
  obtain ⟨tr, htr⟩ := Ngr_23.out
  refine bodyPost_ret (results_cell_row rfl _ _ gr tr (bcs (encs [0, 1])).toArray _ _ rfl htr Try.underlying35 rfl (by rw [List.size_toArray, bcs_len, encs_len]; exact size35)) rfl ?_
  exact ⟨rfl, HF_23.out⟩

set_option maxHeartbeats 4000000 in
theorem Mul2_bad2 (a b px py qx qy : Nat) (w : World) (C1 : Hid (∀ w, Calls Try.prog 40 #[vR [px, py]] w (Gives (.int .i64 0) w))) (C2 : Hid (∀ w, Calls Try.prog 40 #[vR [qx, qy]] w (Gives (.int .i64 2) w))) (CZ : Hid (∀ w, Calls Try.prog 39 #[] w (Gives (vR [0, 1]) w))) :
    Calls Try.prog 53 #[vN a, vR [px, py], vN b, vR [qx, qy]] w (Gives (vR [0, 1]) w) := by
  have HF_0 : Hid (Below w.heap.size w w) := Lib.hid (Below.refl _ _)
  go_enter Try.func53, Try.ntmps53
  go_wp2_with (first | ((with_reducible show wpList _ _ _ (⟨some 4, .box 23 (.tmp 0), _, _, _, _⟩ :: _) _ _); go_must (refine wpList_box_row rfl 23 (.tmp 0) rfl (bcs (enc a)).toArray rfl ?_; intro u24 ha24 hza24 hga24; have Nga_24 : Hid (RAt u24 w.heap.size [a]) := Lib.hid (NAt.row ⟨_, ha24⟩); have HF_24 : Hid (Below w.heap.size w u24) := Lib.hid (HF_0.out.grown hga24 HF_0.out.size (by simp)); have HGE24 : Hid (w.heap.size ≤ w.heap.size) := Lib.hid HF_0.out.size; clear ha24 hza24 hga24 HF_0)) | ((with_reducible show wpList _ _ _ (⟨some 5, .box 35 (.tmp 1), _, _, _, _⟩ :: _) _ _); go_must (refine wpList_box_row rfl 35 (.tmp 1) rfl (bcs (encs [px, py])).toArray rfl ?_; intro u25 ha25 hza25 hga25; have Nga_25 := Lib.hid (Nga_24.out.grown hga25 (by simp)); have Ngp_25 : Hid (RAt u25 u24.heap.size [px, py]) := Lib.hid (⟨_, ha25⟩); have HF_25 : Hid (Below w.heap.size w u25) := Lib.hid (HF_24.out.grown hga25 HF_24.out.size (by simp)); have HNE25_0 : Hid (w.heap.size ≠ u24.heap.size) := Lib.hid (by have := Nga_24.out.lt; omega); have HGE25 : Hid (w.heap.size ≤ u24.heap.size) := Lib.hid HF_24.out.size; clear ha25 hza25 hga25 Nga_24 HF_24)) | ((with_reducible show wpList _ _ _ (⟨some 6, .box 23 (.tmp 2), _, _, _, _⟩ :: _) _ _); go_must (refine wpList_box_row rfl 23 (.tmp 2) rfl (bcs (enc b)).toArray rfl ?_; intro u26 ha26 hza26 hga26; have Nga_26 := Lib.hid (Nga_25.out.grown hga26 (by simp)); have Ngp_26 := Lib.hid (Ngp_25.out.grown hga26 (by simp)); have Ngb_26 : Hid (RAt u26 u25.heap.size [b]) := Lib.hid (NAt.row ⟨_, ha26⟩); have HF_26 : Hid (Below w.heap.size w u26) := Lib.hid (HF_25.out.grown hga26 HF_25.out.size (by simp)); have HNE26_1 : Hid (w.heap.size ≠ u25.heap.size) := Lib.hid (by have := Nga_25.out.lt; omega); have HNE26_2 : Hid (u24.heap.size ≠ u25.heap.size) := Lib.hid (by have := Ngp_25.out.lt; omega); have HGE26 : Hid (w.heap.size ≤ u25.heap.size) := Lib.hid HF_25.out.size; clear ha26 hza26 hga26 Nga_25 Ngp_25 HF_25)) | ((with_reducible show wpList _ _ _ (⟨some 7, .box 35 (.tmp 3), _, _, _, _⟩ :: _) _ _); go_must (refine wpList_box_row rfl 35 (.tmp 3) rfl (bcs (encs [qx, qy])).toArray rfl ?_; intro u27 ha27 hza27 hga27; have Nga_27 := Lib.hid (Nga_26.out.grown hga27 (by simp)); have Ngp_27 := Lib.hid (Ngp_26.out.grown hga27 (by simp)); have Ngb_27 := Lib.hid (Ngb_26.out.grown hga27 (by simp)); have Ngq_27 : Hid (RAt u27 u26.heap.size [qx, qy]) := Lib.hid (⟨_, ha27⟩); have HF_27 : Hid (Below w.heap.size w u27) := Lib.hid (HF_26.out.grown hga27 HF_26.out.size (by simp)); have HNE27_3 : Hid (w.heap.size ≠ u26.heap.size) := Lib.hid (by have := Nga_26.out.lt; omega); have HNE27_4 : Hid (u24.heap.size ≠ u26.heap.size) := Lib.hid (by have := Ngp_26.out.lt; omega); have HNE27_5 : Hid (u25.heap.size ≠ u26.heap.size) := Lib.hid (by have := Ngb_26.out.lt; omega); have HGE27 : Hid (w.heap.size ≤ u26.heap.size) := Lib.hid HF_26.out.size; clear ha27 hza27 hga27 Nga_26 Ngp_26 Ngb_26 HF_26)) | ((with_reducible show wpList _ _ _ (⟨some 8, .alloc 35, _, _, _, _⟩ :: _) _ _); go_must (refine wpList_alloc_row rfl 35 rfl (.agg (zbs 64)) zero35 ?_; intro u28 ha28 hza28 hga28; have Nga_28 := Lib.hid (Nga_27.out.grown hga28 (by simp)); have Ngp_28 := Lib.hid (Ngp_27.out.grown hga28 (by simp)); have Ngb_28 := Lib.hid (Ngb_27.out.grown hga28 (by simp)); have Ngq_28 := Lib.hid (Ngq_27.out.grown hga28 (by simp)); have Ngr_28 : Hid (RAt u28 u27.heap.size [0, 0]) := Lib.hid (zrow (k := 2) ha28); have HF_28 : Hid (Below w.heap.size w u28) := Lib.hid (HF_27.out.grown hga28 HF_27.out.size (by simp)); have HNE28_6 : Hid (w.heap.size ≠ u27.heap.size) := Lib.hid (by have := Nga_27.out.lt; omega); have HNE28_7 : Hid (u24.heap.size ≠ u27.heap.size) := Lib.hid (by have := Ngp_27.out.lt; omega); have HNE28_8 : Hid (u25.heap.size ≠ u27.heap.size) := Lib.hid (by have := Ngb_27.out.lt; omega); have HNE28_9 : Hid (u26.heap.size ≠ u27.heap.size) := Lib.hid (by have := Ngq_27.out.lt; omega); have HGE28 : Hid (w.heap.size ≤ u27.heap.size) := Lib.hid HF_27.out.size; clear ha28 hza28 hga28 Nga_27 Ngp_27 Ngb_27 Ngq_27 HF_27)) | ((with_reducible show wpList _ _ _ (⟨_, .load 35 (.tmp 5), _, _, _, _⟩ :: _) _ _); go_must (refine wpList_exec rfl (vR [px, py]) (exec_loadP (.tmp 5) rfl (u24.heap.size) px py rfl Ngp_28.out) ?_)) | fail)
  generalize u24.heap.size = gp at *
  generalize u25.heap.size = gb at *
  generalize u26.heap.size = gq at *
  generalize u27.heap.size = gr at *
  refine (C1.out _).mono ?_
  rintro e29 x29 ⟨rfl, hb29⟩
  have Nga_29 := hKq Nga_28 hb29
  have Ngp_29 := hKq Ngp_28 hb29
  have Ngb_29 := hKq Ngb_28 hb29
  have Ngq_29 := hKq Ngq_28 hb29
  have Ngr_29 := hKq Ngr_28 hb29
  have HF_29 := fTq HF_28 hb29
  clear hb29 Nga_28 Ngp_28 Ngb_28 Ngq_28 Ngr_28 HF_28
  go_wp2_with (first | ((with_reducible show wpList _ _ _ (⟨_, .load 35 (.tmp 7), _, _, _, _⟩ :: _) _ _); go_must (refine wpList_exec rfl (vR [qx, qy]) (exec_loadP (.tmp 7) rfl (gq) qx qy rfl Ngq_29.out) ?_)) | fail)
  refine (C2.out _).mono ?_
  rintro e30 x30 ⟨rfl, hb30⟩
  have Nga_30 := hKq Nga_29 hb30
  have Ngp_30 := hKq Ngp_29 hb30
  have Ngb_30 := hKq Ngb_29 hb30
  have Ngq_30 := hKq Ngq_29 hb30
  have Ngr_30 := hKq Ngr_29 hb30
  have HF_30 := fTq HF_29 hb30
  clear hb30 Nga_29 Ngp_29 Ngb_29 Ngq_29 Ngr_29 HF_29
  go_wp2_with fail
  refine (CZ.out _).mono ?_
  rintro e31 x31 ⟨rfl, hb31⟩
  have Nga_31 := hKq Nga_30 hb31
  have Ngp_31 := hKq Ngp_30 hb31
  have Ngb_31 := hKq Ngb_30 hb31
  have Ngq_31 := hKq Ngq_30 hb31
  have Ngr_31 := hKq Ngr_30 hb31
  have HF_31 := fTq HF_30 hb31
  clear hb31 Nga_30 Ngp_30 Ngb_30 Ngq_30 Ngr_30 HF_30
  go_wp2_with (first | ((with_reducible show wpList _ _ _ (⟨none, .store 35 (.tmp 8) (.tmp 20), _, _, _, _⟩ :: _) _ _); go_must (refine wpList_storeP rfl (.tmp 8) (.tmp 20) rfl (gr) [0, 0] 0 1 rfl rfl Ngr_31.out rfl ?_; intro y32 hr32 hg32 hz32; have Nga_32 := hGq Nga_31 hg32 HNE28_6; have Ngp_32 := hGq Ngp_31 hg32 HNE28_7; have Ngb_32 := hGq Ngb_31 hg32 HNE28_8; have Ngq_32 := hGq Ngq_31 hg32 HNE28_9; have Ngr_32 : Hid (RAt y32 gr [0, 1]) := Lib.hid hr32; have HF_32 : Hid (Below w.heap.size w y32) := Lib.hid (HF_31.out.grown hg32 HF_31.out.size (fun r hr => by injection hr with hr; have := HGE28.out; omega)); clear hr32 hg32 hz32 Nga_31 Ngp_31 Ngb_31 Ngq_31 Ngr_31 HF_31)) | fail)
  go_wp2_with fail
  obtain ⟨tr, htr⟩ := Ngr_32.out
  refine bodyPost_ret (results_cell_row rfl _ _ gr tr (bcs (encs [0, 1])).toArray _ _ rfl htr Try.underlying35 rfl (by rw [List.size_toArray, bcs_len, encs_len]; exact size35)) rfl ?_
  exact ⟨rfl, HF_32.out⟩

set_option maxHeartbeats 4000000 in
theorem PMul_core (a px py rx ry : Nat) (w : World) (CZ : Hid (∀ w, Calls Try.prog 39 #[] w (Gives (vR [0, 1]) w))) (CM : Hid (∀ w, Calls Try.prog 53 #[vN a, vR [px, py], vN 0, vR [0, 1]] w (Gives (vR [rx, ry]) w))) :
    Calls Try.prog 41 #[vN a, vR [px, py]] w (Gives (vR [rx, ry]) w) := by
  have HF_0 : Hid (Below w.heap.size w w) := Lib.hid (Below.refl _ _)
  go_enter Try.func41, Try.ntmps41
  go_wp2_with (first | ((with_reducible show wpList _ _ _ (⟨some 2, .box 23 (.tmp 0), _, _, _, _⟩ :: _) _ _); go_must (refine wpList_box_row rfl 23 (.tmp 0) rfl (bcs (enc a)).toArray rfl ?_; intro u33 ha33 hza33 hga33; have Nga_33 : Hid (RAt u33 w.heap.size [a]) := Lib.hid (NAt.row ⟨_, ha33⟩); have HF_33 : Hid (Below w.heap.size w u33) := Lib.hid (HF_0.out.grown hga33 HF_0.out.size (by simp)); have HGE33 : Hid (w.heap.size ≤ w.heap.size) := Lib.hid HF_0.out.size; clear ha33 hza33 hga33 HF_0)) | ((with_reducible show wpList _ _ _ (⟨some 3, .box 35 (.tmp 1), _, _, _, _⟩ :: _) _ _); go_must (refine wpList_box_row rfl 35 (.tmp 1) rfl (bcs (encs [px, py])).toArray rfl ?_; intro u34 ha34 hza34 hga34; have Nga_34 := Lib.hid (Nga_33.out.grown hga34 (by simp)); have Ngp_34 : Hid (RAt u34 u33.heap.size [px, py]) := Lib.hid (⟨_, ha34⟩); have HF_34 : Hid (Below w.heap.size w u34) := Lib.hid (HF_33.out.grown hga34 HF_33.out.size (by simp)); have HNE34_0 : Hid (w.heap.size ≠ u33.heap.size) := Lib.hid (by have := Nga_33.out.lt; omega); have HGE34 : Hid (w.heap.size ≤ u33.heap.size) := Lib.hid HF_33.out.size; clear ha34 hza34 hga34 Nga_33 HF_33)) | ((with_reducible show wpList _ _ _ (⟨some 4, .alloc 35, _, _, _, _⟩ :: _) _ _); go_must (refine wpList_alloc_row rfl 35 rfl (.agg (zbs 64)) zero35 ?_; intro u35 ha35 hza35 hga35; have Nga_35 := Lib.hid (Nga_34.out.grown hga35 (by simp)); have Ngp_35 := Lib.hid (Ngp_34.out.grown hga35 (by simp)); have Ngr_35 : Hid (RAt u35 u34.heap.size [0, 0]) := Lib.hid (zrow (k := 2) ha35); have HF_35 : Hid (Below w.heap.size w u35) := Lib.hid (HF_34.out.grown hga35 HF_34.out.size (by simp)); have HNE35_1 : Hid (w.heap.size ≠ u34.heap.size) := Lib.hid (by have := Nga_34.out.lt; omega); have HNE35_2 : Hid (u33.heap.size ≠ u34.heap.size) := Lib.hid (by have := Ngp_34.out.lt; omega); have HGE35 : Hid (w.heap.size ≤ u34.heap.size) := Lib.hid HF_34.out.size; clear ha35 hza35 hga35 Nga_34 Ngp_34 HF_34)) | fail)
  generalize u33.heap.size = gp at *
  generalize u34.heap.size = gr at *
  have HLT36_0 := lR Nga_35
  have HLT36_1 := lR Ngp_35
  have HLT36_2 := lR Ngr_35
  have HLO36 : Hid (w.heap.size ≤ u35.heap.size) := Lib.hid HF_35.out.size
  refine region_split (fun a' W => RAt W w.heap.size [a] ∧ RAt W gp [px, py] ∧ RAt W gr [rx, ry] ∧ Below w.heap.size w W ∧ a' = ⟨#[vN a, vR [px, py], .pointer (some ⟨w.heap.size, 0, none⟩), .pointer (some ⟨gp, 0, none⟩), .pointer (some ⟨gr, 0, none⟩), vN a, vR [px, py], vN 0, vR [0, 1], vR [rx, ry]], []⟩) ?_ ?_
  · refine startW (fun j => j == 5) (u35.heap.size) (by kernel_rfl) ?_
    obtain ⟨D36, hD36⟩ : ∃ D, D = u35.drew := ⟨_, rfl⟩
    rw [← hD36]
    have HL_36 := dLq hD36
    have Nga_36 := dRq hD36 Nga_35
    have Ngp_36 := dRq hD36 Ngp_35
    have Ngr_36 := dRq hD36 Ngr_35
    have HF_36 : Hid (Below w.heap.size w D36) := Lib.hid (by rw [hD36]; exact below_drewN' HF_35.out 1)
    clear hD36 Nga_35 Ngp_35 Ngr_35 HF_35
    refine takeT (i := 0) (oi := oET0) (vN a) rfl (by kernel_rfl) (by kernel_rfl) (by kernel_rfl) (by kernel_rfl) (by kernel_rfl) (fun _ _ _ h => nomatch h.1) (by rfl) (fun w' hk => exec_loadF (.tmp 2) rfl (w.heap.size) 0 0 rfl [a] a rfl (Nga_36.out.below hk HLT36_0.out) rfl) ?_
    simp only [oET0, Act.put, zA, zB, zC]
    refine takeT (i := 1) (oi := oET1) (vR [px, py]) rfl (by kernel_rfl) (by kernel_rfl) (by kernel_rfl) (by kernel_rfl) (by kernel_rfl) (fun _ _ _ h => nomatch h.1) (by rfl) (fun w' hk => exec_loadP (.tmp 3) rfl (gp) px py rfl (Ngp_36.out.below hk HLT36_1.out)) ?_
    simp only [oET1, Act.put, zA, zB, zC]
    refine tA (i := 2) (oi := oET2) ?_
    refine ⟨vN 0, fun w' => exec_build0 rfl, ?_⟩
    simp only [oET2, Act.put, zA, zB, zC]
    refine callW (i := 3) (oi := oET3) rfl (by kernel_rfl) (by rfl) (exec_callL 39 [] #[] rfl [] rfl (CG39 _)) ((CZ.out D36).mono ?_)
    rintro e37 W37 ⟨rfl, hb37⟩
    refine ⟨_, rfl, fun _ => hb37.mono HL_36.out, ?_⟩
    have Nga_37 := hKq Nga_36 hb37
    have Ngp_37 := hKq Ngp_36 hb37
    have Ngr_37 := hKq Ngr_36 hb37
    have HF_37 := fTq HF_36 hb37
    have HL_37 := lT HL_36 hb37
    clear hb37 HL_36 Nga_36 Ngp_36 Ngr_36 HF_36
    simp only [oET3, Act.put, zA, zB, zC]
    refine callW (i := 4) (oi := oET4) rfl (by kernel_rfl) (by rfl) (exec_callL 53 [.tmp 5, .tmp 6, .tmp 7, .tmp 8] #[23, 35, 23, 35] rfl [vN a, vR [px, py], vN 0, vR [0, 1]] rfl (CG53 _)) ((CM.out W37).mono ?_)
    rintro e38 W38 ⟨rfl, hb38⟩
    refine ⟨_, rfl, fun _ => hb38.mono HL_37.out, ?_⟩
    have Nga_38 := hKq Nga_37 hb38
    have Ngp_38 := hKq Ngp_37 hb38
    have Ngr_38 := hKq Ngr_37 hb38
    have HF_38 := fTq HF_37 hb38
    have HL_38 := lT HL_37 hb38
    clear hb38 HL_37 Nga_37 Ngp_37 Ngr_37 HF_37
    simp only [oET4, Act.put, zA, zB, zC]
    refine storeW_P (i := 5) (oi := oET5) rfl (by kernel_rfl) (by rfl) (.tmp 4) (.tmp 9) rfl (gr) [0, 0] rx ry rfl rfl Ngr_38.out rfl rfl ?_
    intro W39 hr39 hg39 hz39
    simp only [oET5, Act.put, zA, zB, zC]
    have Nga_39 := hGq Nga_38 hg39 HNE35_1
    have Ngp_39 := hGq Ngp_38 hg39 HNE35_2
    have Ngr_39 : Hid (RAt W39 gr [rx, ry]) := Lib.hid hr39
    have HF_39 : Hid (Below w.heap.size w W39) := Lib.hid (HF_38.out.grown hg39 HF_38.out.size (fun r hr => by injection hr with hr; have := HGE35.out; omega))
    have HL_39 := lG HL_38 hg39
    clear hr39 hg39 hz39 HL_38 Nga_38 Ngp_38 Ngr_38 HF_38
    refine doneW (by kernel_rfl) ⟨rfl, ?_⟩ _
    exact ⟨Nga_39.out, Ngp_39.out, Ngr_39.out, HF_39.out, rfl⟩
  rintro a' v40 ⟨h0, h1, h2, hF, rfl⟩
  have Nga_40 := Lib.hid h0
  have Ngp_40 := Lib.hid h1
  have Ngr_40 := Lib.hid h2
  have HF_40 := Lib.hid hF
  clear h0 h1 h2 hF HLT36_0 HLT36_1 HLT36_2 HLO36 Nga_35 Ngp_35 Ngr_35 HF_35
  go_wp2_with fail
  obtain ⟨tr, htr⟩ := Ngr_40.out
  refine bodyPost_ret (results_cell_row rfl _ _ gr tr (bcs (encs [rx, ry])).toArray _ _ rfl htr Try.underlying35 rfl (by rw [List.size_toArray, bcs_len, encs_len]; exact size35)) rfl ?_
  exact ⟨rfl, HF_40.out⟩

set_option maxHeartbeats 4000000 in
theorem Small_core (px py rx ry : Nat) (b : Bool) (w : World) (C1 : Hid (∀ w, Calls Try.prog 40 #[vR [px, py]] w (Gives (.int .i64 0) w))) (CM : Hid (∀ w, Calls Try.prog 41 #[vN 8, vR [px, py]] w (Gives (vR [rx, ry]) w))) (CZ : Hid (∀ w, Calls Try.prog 39 #[] w (Gives (vR [0, 1]) w)))
    (HE : Hid (∀ w, (Op.equalIn 10000 35 (vR [rx, ry]) (vR [0, 1])).run Try.prog w = .ok b w)) :
    Calls Try.prog 43 #[vR [px, py]] w (Gives (.bool b) w) := by
  have HF_0 : Hid (Below w.heap.size w w) := Lib.hid (Below.refl _ _)
  go_enter Try.func43, Try.ntmps43
  go_wp2_with (first | ((with_reducible show wpList _ _ _ (⟨some 1, .box 35 (.tmp 0), _, _, _, _⟩ :: _) _ _); go_must (refine wpList_box_row rfl 35 (.tmp 0) rfl (bcs (encs [px, py])).toArray rfl ?_; intro u41 ha41 hza41 hga41; have Ngp_41 : Hid (RAt u41 w.heap.size [px, py]) := Lib.hid (⟨_, ha41⟩); have HF_41 : Hid (Below w.heap.size w u41) := Lib.hid (HF_0.out.grown hga41 HF_0.out.size (by simp)); have HGE41 : Hid (w.heap.size ≤ w.heap.size) := Lib.hid HF_0.out.size; clear ha41 hza41 hga41 HF_0)) | ((with_reducible show wpList _ _ _ (⟨_, .load 35 (.tmp 1), _, _, _, _⟩ :: _) _ _); go_must (refine wpList_exec rfl (vR [px, py]) (exec_loadP (.tmp 1) rfl (w.heap.size) px py rfl Ngp_41.out) ?_)) | fail)
  refine (C1.out _).mono ?_
  rintro e42 x42 ⟨rfl, hb42⟩
  have Ngp_42 := hKq Ngp_41 hb42
  have HF_42 := fTq HF_41 hb42
  clear hb42 Ngp_41 HF_41
  go_wp2_with (first | ((with_reducible show wpList _ _ _ (⟨_, .build 23 _, _, _, _, _⟩ :: _) _ _); go_must (refine wpList_exec rfl (vN 8) (exec_buildc rfl (by kernel_rfl)) ?_)) | ((with_reducible show wpList _ _ _ (⟨_, .load 35 (.tmp 1), _, _, _, _⟩ :: _) _ _); go_must (refine wpList_exec rfl (vR [px, py]) (exec_loadP (.tmp 1) rfl (w.heap.size) px py rfl Ngp_42.out) ?_)) | fail)
  refine (CM.out _).mono ?_
  rintro e43 x43 ⟨rfl, hb43⟩
  have Ngp_43 := hKq Ngp_42 hb43
  have HF_43 := fTq HF_42 hb43
  clear hb43 Ngp_42 HF_42
  go_wp2_with fail
  refine (CZ.out _).mono ?_
  rintro e44 x44 ⟨rfl, hb44⟩
  have Ngp_44 := hKq Ngp_43 hb44
  have HF_44 := fTq HF_43 hb44
  clear hb44 Ngp_43 HF_43
  go_wp2_with (first | ((with_reducible show wpList _ _ _ (⟨_, .binOp .eql 35 (.tmp 9) (.tmp 10) 35, _, _, _, _⟩ :: _) _ _); go_must (refine wpList_exec rfl (.bool b) (exec_eqP (m := rx) (n := ry) (m' := 0) (n' := 1) (.tmp 9) (.tmp 10) rfl rfl rfl (HE.out _)) ?_)) | fail)
  go_ret
  exact ⟨rfl, HF_44.out⟩

set_option maxHeartbeats 4000000 in
theorem Small_bad (px py : Nat) (w : World) (C1 : Hid (∀ w, Calls Try.prog 40 #[vR [px, py]] w (Gives (.int .i64 2) w))) :
    Calls Try.prog 43 #[vR [px, py]] w (Gives (.bool false) w) := by
  have HF_0 : Hid (Below w.heap.size w w) := Lib.hid (Below.refl _ _)
  go_enter Try.func43, Try.ntmps43
  go_wp2_with (first | ((with_reducible show wpList _ _ _ (⟨some 1, .box 35 (.tmp 0), _, _, _, _⟩ :: _) _ _); go_must (refine wpList_box_row rfl 35 (.tmp 0) rfl (bcs (encs [px, py])).toArray rfl ?_; intro u45 ha45 hza45 hga45; have Ngp_45 : Hid (RAt u45 w.heap.size [px, py]) := Lib.hid (⟨_, ha45⟩); have HF_45 : Hid (Below w.heap.size w u45) := Lib.hid (HF_0.out.grown hga45 HF_0.out.size (by simp)); have HGE45 : Hid (w.heap.size ≤ w.heap.size) := Lib.hid HF_0.out.size; clear ha45 hza45 hga45 HF_0)) | ((with_reducible show wpList _ _ _ (⟨_, .load 35 (.tmp 1), _, _, _, _⟩ :: _) _ _); go_must (refine wpList_exec rfl (vR [px, py]) (exec_loadP (.tmp 1) rfl (w.heap.size) px py rfl Ngp_45.out) ?_)) | fail)
  refine (C1.out _).mono ?_
  rintro e46 x46 ⟨rfl, hb46⟩
  have Ngp_46 := hKq Ngp_45 hb46
  have HF_46 := fTq HF_45 hb46
  clear hb46 Ngp_45 HF_45
  go_wp2
  go_ret
  exact ⟨rfl, HF_46.out⟩

theorem vZ : vPt EC.zero = vR [0, 1] := by unfold vPt Ed.zero; rw [v1]; rfl
theorem pMul2 (a b : Nat) (ha : a < TT) (hb : b < TT) (P Q : EC.Pt) (w : World) : Calls Try.prog 53 #[vN a, vPt P, vN b, vPt Q] w (Gives (vPt (EC.add (EC.sm P a) (EC.sm Q b))) w) := by
  have e : EC.two P Q a b 0 = EC.add (EC.sm P a) (EC.sm Q b) := by unfold Ed.two; rw [Nat.pow_zero, Nat.div_one, Nat.div_one]
  rw [← e]
  refine Mul2_core a b _ _ _ _ (P.1.1 * P.1.2).val (Q.1.1 * Q.1.2).val _ _ (fun X Y Z T => ∃ R : X4, R.IsP (EC.two P Q a b 0) ∧ R.l = [X, Y, Z, T]) w (Lib.hid (pCheck P)) (Lib.hid (pCheck Q))
    (Lib.hid fun w g g1 h0 h1 n1 => eread_any P.1.1 P.1.2 0 0 0 0 w g g1 h0 h1 n1) (Lib.hid fun w g g1 h0 h1 n1 => eread_any Q.1.1 Q.1.2 0 0 0 0 w g g1 h0 h1 n1)
    (Lib.hid fun w g ga gp gb gq h0 h1 h2 h3 h4 n1 n2 n3 n4 => ?_) (Lib.hid fun X Y Z T hG w g hr => ?_)
  · refine (mul2_any P Q (X4.of P) (X4.of Q) ⟨0, 0, 0, 0⟩ a b w g ga gp gb gq (Lib.hid (X4.IsP.of P)) (Lib.hid (X4.IsP.of Q)) (Lib.hid ha) (Lib.hid hb) (Lib.hid h0) (Lib.hid h1) (Lib.hid (by rw [of_l]; exact h2)) (Lib.hid h3) (Lib.hid (by rw [of_l]; exact h4)) (Lib.hid n1) (Lib.hid n2) (Lib.hid n3) (Lib.hid n4)).mono ?_
    rintro e w' ⟨R, hR, hs⟩
    exact ⟨_, _, _, _, ⟨R, hR, rfl⟩, hs⟩
  · obtain ⟨R, hR, hl⟩ := hG
    rw [← hl] at hr
    exact hR.point w g hr
theorem pMul (a : Nat) (ha : a < TT) (P : EC.Pt) (w : World) : Calls Try.prog 41 #[vN a, vPt P] w (Gives (vPt (EC.sm P a)) w) := by
  have h : ∀ w, Calls Try.prog 53 #[vN a, vPt P, vN 0, vR [0, 1]] w (Gives (vPt (EC.sm P a)) w) := fun w => by
    have h := pMul2 a 0 ha (by unfold TT; omega) P EC.zero w
    rw [EC.sm_zero, EC.add_zero, vZ] at h
    exact h
  exact PMul_core a _ _ _ _ w (Lib.hid Zero_any) (Lib.hid h)
theorem pSmall (P : EC.Pt) (w : World) : Calls Try.prog 43 #[vPt P] w (Gives (.bool (decide (EC.sm P 8 = EC.zero))) w) :=
  Small_core _ _ _ _ _ w (Lib.hid (pCheck P)) (Lib.hid (pMul 8 (by unfold TT; omega) P)) (Lib.hid Zero_any) (Lib.hid fun w => by rw [← vZ]; exact pEq _ _ w)
end Go.Proofs.Ytgdimnbdnepbgaa
/- Multiples of the base point, worked out by the kernel. No statement is proved here. -/
namespace Go.Proofs.Ytgdimnbdnepbgaa
open Go.RowKit
set_option linter.unusedVariables false
set_option maxRecDepth 40000
set_option linter.unusedSimpArgs false

/-- Four numbers. -/
structure Q4 where
  x : Nat
  y : Nat
  z : Nat
  t : Nat
def dblC {α : Type} (x y z : Nat) (f : Nat → Nat → Nat → Nat → α) : α :=
  stric (x * x % PP) fun xx => stric (y * y % PP) fun yy => stric (z * z % PP) fun zz => stric (x * y % PP) fun xy => stric ((xy + xy) % PP) fun xx2 => stric ((yy + xx) % PP) fun s =>
  stric ((PP - xx + yy) % PP) fun ox => stric ((zz + zz) % PP) fun z2 => stric ((PP - ox + z2) % PP) fun oy =>
  stric (xx2 * oy % PP) fun X => stric (s * ox % PP) fun Y => stric (ox * oy % PP) fun Z => stric (xx2 * s % PP) fun T => f X Y Z T
def addC {α : Type} (x y z t : Nat) (bx by' bt : Nat) (f : Nat → Nat → Nat → Nat → α) : α :=
  stric (t * bt % PP) fun tt => stric (dN * tt % PP) fun d => stric (x * by' % PP) fun a1 => stric (y * bx % PP) fun a2 => stric ((a1 + a2) % PP) fun xx =>
  stric (y * by' % PP) fun b1 => stric (x * bx % PP) fun b2 => stric ((b1 + b2) % PP) fun yy => stric ((z + d) % PP) fun ox => stric ((PP - d + z) % PP) fun oy =>
  stric (xx * oy % PP) fun X => stric (yy * ox % PP) fun Y => stric (ox * oy % PP) fun Z => stric (xx * yy % PP) fun T => f X Y Z T
/-- Bits i - 1 .. 0 of k. -/
def go (k bx by' bt : Nat) : Nat → Nat → Nat → Nat → Nat → Q4
  | 0, x, y, z, t => ⟨x, y, z, t⟩
  | i + 1, x, y, z, t => dblC x y z fun X Y Z T => stric (k / 2 ^ i % 2) fun b => if b = 1 then addC X Y Z T bx by' bt (go k bx by' bt i) else go k bx by' bt i X Y Z T
theorem dblC_eq {α : Type} (R : X4) (f : Nat → Nat → Nat → Nat → α) : dblC R.x.val R.y.val R.z.val f = f R.dbl.x.val R.dbl.y.val R.dbl.z.val R.dbl.t.val := by
  unfold dblC
  simp only [stric_eq]
  rfl
theorem one_mulF (z : Fin PP) : z * 1 = z := by grind
theorem addC_eq {α : Type} (R : X4) (P : EC.Pt) (f : Nat → Nat → Nat → Nat → α) : addC R.x.val R.y.val R.z.val R.t.val P.1.1.val P.1.2.val (P.1.1 * P.1.2).val f = f (R.sum (X4.of P)).x.val (R.sum (X4.of P)).y.val (R.sum (X4.of P)).z.val (R.sum (X4.of P)).t.val := by
  unfold addC
  simp only [stric_eq]
  unfold X4.sum X4.of
  simp only [one_mulF]
  rfl
theorem go_is (k : Nat) (P : EC.Pt) : ∀ (i : Nat) (R : X4), R.IsP (EC.sm P (k / 2 ^ i)) → ∃ S : X4, S.IsP (EC.sm P k) ∧ go k P.1.1.val P.1.2.val (P.1.1 * P.1.2).val i R.x.val R.y.val R.z.val R.t.val = ⟨S.x.val, S.y.val, S.z.val, S.t.val⟩
  | 0, R, h => ⟨R, by rw [Nat.pow_zero, Nat.div_one] at h; exact h, rfl⟩
  | i + 1, R, h => by
    have e : k / 2 ^ i = 2 * (k / 2 ^ (i + 1)) + k / 2 ^ i % 2 := by rw [Nat.pow_succ, ← Nat.div_div_eq_div_mul]; omega
    have hd := h.dbl
    rw [← EC.sm_two] at hd
    unfold go
    rw [dblC_eq]
    simp only [stric_eq]
    by_cases hb : k / 2 ^ i % 2 = 1
    · rw [if_pos hb, addC_eq]
      refine go_is k P i _ ?_
      rw [e, hb, EC.sm_add, EC.sm_one]
      exact hd.add (X4.IsP.of P)
    · rw [if_neg hb]
      refine go_is k P i _ ?_
      rw [e, show k / 2 ^ i % 2 = 0 from by omega, Nat.add_zero]
      exact hd
theorem go_all (k : Nat) (P : EC.Pt) (i : Nat) (hk : k / 2 ^ i = 0) : ∃ S : X4, S.IsP (EC.sm P k) ∧ go k P.1.1.val P.1.2.val (P.1.1 * P.1.2).val i 0 1 1 0 = ⟨S.x.val, S.y.val, S.z.val, S.t.val⟩ := by
  have h := go_is k P i (X4.of EC.zero) (by rw [hk]; exact X4.IsP.of _)
  have e0 : (X4.of EC.zero).x.val = 0 := rfl
  have e1 : (X4.of EC.zero).y.val = 1 := v1
  have e2 : (X4.of EC.zero).z.val = 1 := v1
  have e3 : (X4.of EC.zero).t.val = 0 := by show ((0 : Fin PP) * 1).val = 0; rw [one_mulF]; rfl
  rw [e0, e1, e2, e3] at h
  exact h
theorem isP_zero {S : X4} {P : EC.Pt} (h : S.IsP P) : P = EC.zero ↔ S.x = 0 ∧ S.y = S.z := by
  obtain ⟨h0, h1, h2, _⟩ := h
  constructor
  · rintro rfl
    refine ⟨by rw [h1]; show (0 : Fin PP) * S.z = 0; grind, by rw [h2]; show (1 : Fin PP) * S.z = S.z; grind⟩
  · rintro ⟨e1, e2⟩
    refine Subtype.ext (Prod.ext ?_ ?_)
    · show P.1.1 = 0
      have : S.z * P.1.1 = S.z * 0 := by rw [h1] at e1; grind
      exact EC.cancel h0 this
    · show P.1.2 = 1
      have : S.z * P.1.2 = S.z * 1 := by rw [h2] at e2; grind
      exact EC.cancel h0 this
def lN : Nat := 7237005577332262213973186563042994240857116359379907606001950938285454250989
def btN : Nat := bxN * byN % PP
def zer (q : Q4) : Bool := q.x == 0 && q.y == q.z
theorem zer_iff {S : X4} {P : EC.Pt} (h : S.IsP P) (q : Q4) (e : q = ⟨S.x.val, S.y.val, S.z.val, S.t.val⟩) : zer q = true ↔ P = EC.zero := by
  rw [isP_zero h, e]
  unfold zer
  simp only [Bool.and_eq_true, beq_iff_eq]
  constructor
  · rintro ⟨h1, h2⟩
    exact ⟨Fin.ext h1, Fin.ext h2⟩
  · rintro ⟨h1, h2⟩
    exact ⟨by rw [h1]; rfl, by rw [h2]⟩
theorem goL : zer (go lN bxN byN btN 253 0 1 1 0) = true := by decide +kernel
theorem go8 : zer (go 8 bxN byN btN 4 0 1 1 0) = false := by decide +kernel
theorem sm_L : EC.sm bP lN = EC.zero := by
  obtain ⟨S, h, e⟩ := go_all lN bP 253 (by decide +kernel)
  exact (zer_iff h _ e).1 goL
theorem sm_8 : EC.sm bP 8 ≠ EC.zero := by
  obtain ⟨S, h, e⟩ := go_all 8 bP 4 (by decide)
  intro hz
  have := (zer_iff h _ e).2 hz
  rw [show go 8 bP.1.1.val bP.1.2.val (bP.1.1 * bP.1.2).val 4 0 1 1 0 = go 8 bxN byN btN 4 0 1 1 0 from rfl, go8] at this
  cases this
end Go.Proofs.Ytgdimnbdnepbgaa
/- Numbers of bytes: parts, order, sums and products by bytes. No statement is proved here. -/
namespace Go.Proofs.Ytgdimnbdnepbgaa
open Go.RowKit
set_option linter.unusedVariables false
set_option linter.unusedSimpArgs false

theorem leb_take_succ : ∀ (l : List UInt8) (n : Nat), leb (l.take (n + 1)) = leb (l.take n) + 256 ^ n * (l.getD n 0).toNat
  | [], n => by simp [leb]
  | b :: t, 0 => by simp [leb]
  | b :: t, n + 1 => by
    rw [List.take_succ_cons, List.take_succ_cons, List.getD_cons_succ]
    simp only [leb]
    rw [leb_take_succ t n, Nat.pow_succ]
    grind
theorem leb_take_all (l : List UInt8) (n : Nat) (h : l.length = n) : leb (l.take n) = leb l := by rw [← h, List.take_length]
theorem take_set_at (l : List UInt8) (n : Nat) (v : UInt8) : (l.set n v).take n = l.take n := List.take_set_of_le (Nat.le_refl n)
theorem leb_take_put (l : List UInt8) (n : Nat) (v : UInt8) (h : n < l.length) : leb ((l.set n v).take (n + 1)) = leb (l.take n) + 256 ^ n * v.toNat := by
  rw [leb_take_succ, take_set_at, List.getD_eq_getElem?_getD, List.getElem?_set_self h]
  rfl
theorem getD_set_above (l : List UInt8) (n j : Nat) (v : UInt8) (h : n < j) : (l.set n v).getD j 0 = l.getD j 0 := by
  rw [List.getD_eq_getElem?_getD, List.getD_eq_getElem?_getD, List.getElem?_set_ne (by omega)]
theorem leb_less : ∀ (a b : List UInt8) (k : Nat), a.length = b.length → (∀ j, k < j → (a.getD j 0).toNat = (b.getD j 0).toNat) → (a.getD k 0).toNat < (b.getD k 0).toNat → leb a < leb b
  | [], [], k, _, _, h => by simp at h
  | [], _ :: _, _, h, _, _ => by simp at h
  | _ :: _, [], _, h, _, _ => by simp at h
  | x :: t, y :: u, 0, hl, ha, h => by
    have e : t = u := by
      apply List.ext_getElem (by simpa using hl)
      intro i h1 h2
      have := ha (i + 1) (by omega)
      rw [List.getD_cons_succ, List.getD_cons_succ, List.getD_eq_getElem?_getD, List.getD_eq_getElem?_getD, List.getElem?_eq_getElem h1, List.getElem?_eq_getElem h2] at this
      exact UInt8.toNat_inj.1 this
    rw [List.getD_cons_zero, List.getD_cons_zero] at h
    rw [e]
    simp only [leb]
    omega
  | x :: t, y :: u, k + 1, hl, ha, h => by
    have ih := leb_less t u k (by simpa using hl) (fun j hj => by have := ha (j + 1) (by omega); rwa [List.getD_cons_succ, List.getD_cons_succ] at this) (by rwa [List.getD_cons_succ, List.getD_cons_succ] at h)
    have hx := UInt8.toNat_lt x
    simp only [leb]
    omega
theorem leb_same (a b : List UInt8) (hl : a.length = b.length) (ha : ∀ j, (a.getD j 0).toNat = (b.getD j 0).toNat) : leb a = leb b := by
  have e : a = b := by
    apply List.ext_getElem hl
    intro i h1 h2
    have := ha i
    rw [List.getD_eq_getElem?_getD, List.getD_eq_getElem?_getD, List.getElem?_eq_getElem h1, List.getElem?_eq_getElem h2] at this
    exact UInt8.toNat_inj.1 this
  rw [e]
/-- One byte of a sum. -/
theorem add_step (X A B x y c v d n : Nat) (h : X + 256 ^ n * c = A + B) (e : c + x + y = v + 256 * d) : X + 256 ^ n * v + 256 ^ (n + 1) * d = (A + 256 ^ n * x) + (B + 256 ^ n * y) := by
  have : X + 256 ^ n * v + 256 ^ (n + 1) * d = X + 256 ^ n * (v + 256 * d) := by rw [Nat.pow_succ]; grind
  rw [this, ← e]
  grind
theorem sub_step (X O L o l c v d n : Nat) (h : X + L = O + 256 ^ n * c) (e : v + l + c = o + 256 * d) : X + 256 ^ n * v + (L + 256 ^ n * l) = O + 256 ^ n * o + 256 ^ (n + 1) * d := by
  have : O + 256 ^ n * o + 256 ^ (n + 1) * d = O + 256 ^ n * (o + 256 * d) := by rw [Nat.pow_succ]; grind
  rw [this, ← e]
  grind
theorem leb_halves (l : List UInt8) (n : Nat) : leb l / 2 ^ n = 2 * (leb l / 2 ^ (n + 1)) + bitL l n := by
  rw [← leb_bit, Nat.pow_succ, ← Nat.div_div_eq_div_mul]
  omega
/-- A number of words, the low one first, in bytes. -/
def pval : List Nat → Nat
  | [] => 0
  | b :: t => b + 256 * pval t
theorem pval_set : ∀ (l : List Nat) (j b : Nat), j < l.length → pval (l.set j b) + 256 ^ j * l.getD j 0 = pval l + 256 ^ j * b
  | [], j, b, h => by simp at h
  | x :: t, 0, b, h => by simp only [List.set_cons_zero, pval, List.getD_cons_zero]; omega
  | x :: t, j + 1, b, h => by
    have ih := pval_set t j b (by simpa using h)
    simp only [List.set_cons_succ, pval, List.getD_cons_succ, Nat.pow_succ]
    grind
theorem pval_take_succ : ∀ (l : List Nat) (n : Nat), pval (l.take (n + 1)) = pval (l.take n) + 256 ^ n * l.getD n 0
  | [], n => by simp [pval]
  | b :: t, 0 => by simp [pval]
  | b :: t, n + 1 => by
    rw [List.take_succ_cons, List.take_succ_cons, List.getD_cons_succ]
    simp only [pval]
    rw [pval_take_succ t n, Nat.pow_succ]
    grind
theorem pval_zero : ∀ n, pval (List.replicate n 0) = 0
  | 0 => rfl
  | n + 1 => by rw [List.replicate_succ]; simp only [pval]; rw [pval_zero n]
/-- One product more. -/
theorem mul_step (p : List Nat) (A B : List UInt8) (i k : Nat) (hl : p.length = 64) (hi : i < 32) (hk : k < 32)
    (h : pval p = leb (A.take i) * leb B + 256 ^ i * (A.getD i 0).toNat * leb (B.take k)) :
    pval (p.set (i + k) (p.getD (i + k) 0 + (A.getD i 0).toNat * (B.getD k 0).toNat)) = leb (A.take i) * leb B + 256 ^ i * (A.getD i 0).toNat * leb (B.take (k + 1)) := by
  have e := pval_set p (i + k) (p.getD (i + k) 0 + (A.getD i 0).toNat * (B.getD k 0).toNat) (by omega)
  rw [h] at e
  rw [leb_take_succ, Nat.pow_add] at *
  grind
theorem mul_row (A B : List UInt8) (i : Nat) (hB : B.length = 32) : leb (A.take i) * leb B + 256 ^ i * (A.getD i 0).toNat * leb (B.take 32) = leb (A.take (i + 1)) * leb B + 256 ^ (i + 1) * (A.getD (i + 1) 0).toNat * leb (B.take 0) := by
  rw [leb_take_all B 32 hB, leb_take_succ]
  simp only [List.take_zero, leb]
  grind
theorem set_bound (p : List Nat) (j v m m' : Nat) (h : ∀ i, p.getD i 0 ≤ m) (hv : v ≤ m') (hm : m ≤ m') : ∀ i, (p.set j v).getD i 0 ≤ m' := by
  intro i
  rw [List.getD_eq_getElem?_getD]
  by_cases e : j = i
  · subst e
    by_cases hj : j < p.length
    · rw [List.getElem?_set_self hj]; exact hv
    · rw [List.getElem?_eq_none (by rw [List.length_set]; omega)]; exact Nat.zero_le _
  · rw [List.getElem?_set_ne e, ← List.getD_eq_getElem?_getD]
    exact Nat.le_trans (h i) hm
theorem byte_prod (x y : UInt8) : x.toNat * y.toNat ≤ 65025 := Nat.mul_le_mul (show x.toNat ≤ 255 by have := UInt8.toNat_lt x; omega) (show y.toNat ≤ 255 by have := UInt8.toNat_lt y; omega)
/-- The sum of two below L. -/
theorem sumL (a b : Nat) (ha : a < lN) (hb : b < lN) : (a + b) % lN = if a + b < lN then a + b else a + b - lN := by
  split
  · rename_i h; exact Nat.mod_eq_of_lt h
  · rename_i h; rw [Nat.mod_eq_sub_mod (by omega), Nat.mod_eq_of_lt (by omega)]
theorem restL (q b : Nat) : ((q % lN + q % lN) % lN + b) % lN = (2 * q + b) % lN := by
  rw [Nat.two_mul, ← Nat.add_mod]
  exact Nat.mod_add_mod _ _ _
end Go.Proofs.Ytgdimnbdnepbgaa
/- The reference's L. No statement is proved here. -/
namespace Go.Proofs.Ytgdimnbdnepbgaa
open Go.RowKit
set_option linter.unusedVariables false
set_option maxRecDepth 40000
set_option linter.unusedSimpArgs false

set_option maxHeartbeats 1000000 in
theorem rL_any (w : World) : Calls Try.prog 37 #[] w (Gives (vN lN) w) := by
  have HF_0 : Hid (Below w.heap.size w w) := Lib.hid (Below.refl _ _)
  go_enter Try.func37, Try.ntmps37
  go_wp2_with (first | ((with_reducible show wpList _ _ _ (⟨some 0, .alloc 23, _, _, _, _⟩ :: _) _ _); go_must (refine wpList_alloc_row rfl 23 rfl (.agg (zbs 32)) zero23 ?_; intro u1 ha1 hza1 hga1; have Ngr_1 : Hid (RAt u1 w.heap.size [0]) := Lib.hid (zrow (k := 1) ha1); have HF_1 : Hid (Below w.heap.size w u1) := Lib.hid (HF_0.out.grown hga1 HF_0.out.size (by simp)); have HGE1 : Hid (w.heap.size ≤ w.heap.size) := Lib.hid HF_0.out.size; clear ha1 hza1 hga1 HF_0)) | ((with_reducible show wpList _ _ _ (⟨some 1, .build 23 _, _, _, _, _⟩ :: _) _ _); go_must (refine wpList_exec rfl (vN lN) (exec_buildc rfl (by kernel_rfl)) ?_)) | ((with_reducible show wpList _ _ _ (⟨none, .store 23 (.tmp 0) (.tmp 1), _, _, _, _⟩ :: _) _ _); go_must (refine wpList_storeF rfl (.tmp 0) (.tmp 1) rfl (w.heap.size) 0 0 rfl [0] lN rfl rfl Ngr_1.out (show 0 < 1 by omega) ?_; intro y2 hr2 hg2 hz2; have Ngr_2 : Hid (RAt y2 w.heap.size [lN]) := Lib.hid hr2; have HF_2 : Hid (Below w.heap.size w y2) := Lib.hid (HF_1.out.grown hg2 HF_1.out.size (fun r hr => by injection hr with hr; have := HGE1.out; omega)); clear hr2 hg2 hz2 Ngr_1 HF_1)) | fail)
  obtain ⟨tr, htr⟩ := Ngr_2.out
  refine bodyPost_ret (results_cell_row rfl _ _ w.heap.size tr (bcs (encs [lN])).toArray _ _ rfl htr under23 rfl (by rw [List.size_toArray, bcs_len, encs_len]; exact size23)) rfl ?_
  exact ⟨by rw [← vR_one]; rfl, HF_2.out⟩

end Go.Proofs.Ytgdimnbdnepbgaa
/- The reference's order of numbers. No statement is proved here. -/
namespace Go.Proofs.Ytgdimnbdnepbgaa
open Go.RowKit
set_option linter.unusedVariables false
set_option maxRecDepth 40000
set_option linter.unusedSimpArgs false

/-- Two numbers that come in. -/
structure Ab (w : World) (a b : List UInt8) (w' : World) : Prop where
  a : BAt w' w.heap.size a
  b : BAt w' (w.heap.size + 1) b
  bel : Below w.heap.size w w'
theorem Ab.drew1 {w : World} {a b : List UInt8} {w' : World} (h : Ab w a b w') : Ab w a b { heap := w'.heap, tape := w'.tape, drawn := w'.drawn + 1, os := w'.os, output := w'.output } :=
  ⟨h.a, h.b, below_drewN' h.bel 1⟩
theorem Ab.start {w w1 w2 : World} {a b : List UInt8} (ha : a.length = 32) (hb : b.length = 32) (h1 : w1.heap[w.heap.size]? = some (.cells (bcs a).toArray 23 (0, 0))) (z1 : w1.heap.size = w.heap.size + 1) (g1 : w.grownBy w1 none)
    (h2 : w2.heap[w1.heap.size]? = some (.cells (bcs b).toArray 23 (0, 0))) (g2 : w1.grownBy w2 none) : Ab w a b w2 := by
  have b1 := below_of_grownBy g1
  have b2 := below_of_grownBy g2
  rw [z1] at h2 b2
  exact ⟨⟨ha, 23, (b2.block _ (by omega)).trans h1⟩, ⟨hb, 23, h2⟩, b1.trans (b2.mono (by omega))⟩
set_option maxHeartbeats 2000000 in
theorem below_core (a b : List UInt8) (C : Bool) (w : World) (HA : Hid (a.length = 32)) (HB : Hid (b.length = 32)) (HC : Hid (decide (leb a < leb b) = C)) :
    Calls Try.prog 104 #[.agg (bcs a).toArray, .agg (bcs b).toArray] w (Gives (.bool C) w) := by
  go_enter Try.func104, Try.ntmps104
  go_wp2_with (first | ((with_reducible show wpList _ _ _ (⟨some 2, .box 23 (.tmp 0), _, _, _, _⟩ :: _) _ _); go_must (refine wpList_box_row rfl 23 (.tmp 0) rfl (bcs a).toArray rfl ?_; intro w1 h1 z1 g1; have H1 := Lib.hid h1; have Z1 := Lib.hid z1; have G1 := Lib.hid g1; clear h1 z1 g1)) | ((with_reducible show wpList _ _ _ (⟨some 3, .box 23 (.tmp 1), _, _, _, _⟩ :: _) _ _); go_must (refine wpList_box_row rfl 23 (.tmp 1) rfl (bcs b).toArray rfl ?_; intro w2 h1 z1 g1; have H2 := Lib.hid h1; have G2 := Lib.hid g1; clear h1 z1 g1)) | fail)
  have S : Hid (Ab w a b w2) := Lib.hid (Ab.start HA.out HB.out H1.out Z1.out G1.out H2.out G2.out)
  rw [show w1.heap.size = w.heap.size + 1 from Z1.out]
  clear H1 Z1 G1 H2 G2
  have HI : Hid (∀ j, 32 ≤ j → (a.getD j 0).toNat = (b.getD j 0).toNat) := Lib.hid fun j hj => by
    rw [List.getD_eq_getElem?_getD, List.getD_eq_getElem?_getD, List.getElem?_eq_none (by rw [HA.out]; exact hj), List.getElem?_eq_none (by rw [HB.out]; exact hj)]
  go_loopw [5] (fun i wr => ∃ n : Nat, n ≤ 32 ∧ i = .int .i64 ((n : Int) - 1) ∧ Hid (∀ j, n ≤ j → (a.getD j 0).toNat = (b.getD j 0).toNat) ∧ Ab w a b wr) (fun i _ => (intOf i + 1).toNat)
  case atStart => exact ⟨32, by omega, rfl, HI, S.out⟩
  case round =>
    obtain ⟨n, hn, rfl, HJ, hp⟩ := hrel
    have H := Lib.hid hp
    clear hp S HI
    by_cases h0 : n = 0
    · subst h0
      have HR : Hid (decide (leb a < leb b) = false) := Lib.hid (by rw [leb_same a b (HA.out.trans HB.out.symm) (fun j => HJ.out j (by omega))]; exact decide_eq_false (Nat.lt_irrefl _))
      go_wp2_with fail
      go_ret
      exact ⟨congrArg (fun x => Ending.returned (.bool x)) (HR.out.symm.trans HC.out), H.out.bel⟩
    · obtain ⟨k, rfl⟩ : ∃ k, n = k + 1 := ⟨n - 1, by omega⟩
      rw [show (((k + 1 : Nat) : Int) - 1) = (k : Int) from by omega]
      have HK : Hid ((∀ j, k < j → (a.getD j 0).toNat = (b.getD j 0).toNat)) := HJ
      clear HJ
      have ca := H.out.a.cell k (by omega)
      have cb := H.out.b.cell k (by omega)
      have hki : (k : Int) < 32 := by omega
      generalize hx : (a.getD k 0).toNat = x at *
      generalize hy : (b.getD k 0).toNat = y at *
      have HX := Lib.hid hx
      have HY := Lib.hid hy
      clear hx hy
      go_wp2_with fail
      refine wp_region_still_lit (by kernel_rfl) (by kernel_rfl) ?_
      have ca' : ({ heap := wr.heap, tape := wr.tape, drawn := wr.drawn + 1, os := wr.os, output := wr.output } : World).cell? ⟨w.heap.size, k, none⟩ = some (.int .u8 (x : Int)) := ca
      have cb' : ({ heap := wr.heap, tape := wr.tape, drawn := wr.drawn + 1, os := wr.os, output := wr.output } : World).cell? ⟨w.heap.size + 1, k, none⟩ = some (.int .u8 (y : Int)) := cb
      repeat still_step
      refine wpStill_nil ?_
      have HD : Hid (Ab w a b { heap := wr.heap, tape := wr.tape, drawn := wr.drawn + 1, os := wr.os, output := wr.output }) := H.out.drew1
      clear H ca cb ca' cb'
      obtain ⟨wd, hwd⟩ : ∃ z, z = ({ heap := wr.heap, tape := wr.tape, drawn := wr.drawn + 1, os := wr.os, output := wr.output } : World) := ⟨_, rfl⟩
      rw [← hwd] at HD
      rw [← hwd]
      clear hwd
      by_cases e : x = y
      · rw [show (((x : Int)) != ((y : Int))) = false from by rw [e]; simp]
        go_wp2_with fail
        refine ⟨⟨k, by omega, by go_num, Lib.hid fun j hj => ?_, HD.out⟩, by simp [intOf]⟩
        by_cases e2 : j = k
        · rw [e2, HX.out, HY.out, e]
        · exact HK.out j (by omega)
      · rw [show (((x : Int)) != ((y : Int))) = true from by simp; omega]
        have HR : Hid (decide (leb a < leb b) = decide (x < y)) := Lib.hid (by
          by_cases hlt : x < y
          · rw [decide_eq_true (leb_less a b k (HA.out.trans HB.out.symm) HK.out (by rw [HX.out, HY.out]; exact hlt)), decide_eq_true hlt]
          · have := leb_less b a k (HB.out.trans HA.out.symm) (fun j hj => (HK.out j hj).symm) (by rw [HX.out, HY.out]; omega)
            rw [decide_eq_false (by omega), decide_eq_false (by omega)])
        have ca := HD.out.a.cell k (by omega)
        have cb := HD.out.b.cell k (by omega)
        rw [HX.out] at ca
        rw [HY.out] at cb
        go_wp2_with fail
        refine wp_region_still_lit (by kernel_rfl) (by kernel_rfl) ?_
        have ca' : ({ heap := wd.heap, tape := wd.tape, drawn := wd.drawn + 1, os := wd.os, output := wd.output } : World).cell? ⟨w.heap.size, k, none⟩ = some (.int .u8 (x : Int)) := ca
        have cb' : ({ heap := wd.heap, tape := wd.tape, drawn := wd.drawn + 1, os := wd.os, output := wd.output } : World).cell? ⟨w.heap.size + 1, k, none⟩ = some (.int .u8 (y : Int)) := cb
        repeat still_step
        refine wpStill_nil ?_
        have HE : Hid (Ab w a b { heap := wd.heap, tape := wd.tape, drawn := wd.drawn + 1, os := wd.os, output := wd.output }) := HD.out.drew1
        go_wp2_with fail
        go_ret
        exact ⟨congrArg (fun x => Ending.returned (.bool x)) (HR.out.symm.trans HC.out), HE.out.bel⟩
theorem below_any (a b : Nat) (ha : a < TT) (hb : b < TT) (w : World) : Calls Try.prog 104 #[vN a, vN b] w (Gives (.bool (decide (a < b))) w) := by
  have h := below_core (enc a) (enc b) _ w (Lib.hid (enc_len a)) (Lib.hid (enc_len b)) (Lib.hid rfl)
  rw [← nv_leb _ (enc_len a), ← nv_leb _ (enc_len b), nv_enc a ha, nv_enc b hb] at h
  exact h
end Go.Proofs.Ytgdimnbdnepbgaa
/- The reference's sum of two scalars. No statement is proved here. -/
namespace Go.Proofs.Ytgdimnbdnepbgaa
open Go.RowKit
set_option linter.unusedVariables false
set_option maxRecDepth 40000
set_option linter.unusedSimpArgs false

theorem wrap_small (z : Int) (h1 : -4611686018427387904 ≤ z) (h2 : z < 4611686018427387904) : IntKind.i64.wrap z = z := by rw [IntKind.wrap_i64]; omega
/-- The memory of plus. -/
structure Pl (w : World) (a b o : List UInt8) (w' : World) : Prop where
  ab : Ab w a b w'
  res : w'.heap[w.heap.size + 2]? = some (.cells (zbs 32) 23 (0, 0))
  o : BAt w' (w.heap.size + 3) o
theorem Pl.drew1 {w : World} {a b o : List UInt8} {w' : World} (h : Pl w a b o w') : Pl w a b o { heap := w'.heap, tape := w'.tape, drawn := w'.drawn + 1, os := w'.os, output := w'.output } :=
  ⟨h.ab.drew1, h.res, h.o⟩
theorem Pl.start {w w2 w3 w4 : World} {a b : List UInt8} (h : Ab w a b w2) (z2 : w2.heap.size = w.heap.size + 2)
    (h3 : w3.heap[w2.heap.size]? = some (.cells (zbs 32) 23 (0, 0))) (z3 : w3.heap.size = w2.heap.size + 1) (g3 : w2.grownBy w3 none)
    (h4 : w4.heap[w3.heap.size]? = some (.cells (zbs 32) 23 (0, 0))) (g4 : w3.grownBy w4 none) : Pl w a b (List.replicate 32 0) w4 := by
  have b3 := below_of_grownBy g3
  have b4 := below_of_grownBy g4
  rw [z2] at h3 z3
  rw [z3] at h4 b4
  have h2 : Ab w a b w4 := ⟨((h.a.keep b3).keep (by rw [z3]; exact b4)), ((h.b.keep b3).keep (by rw [z3]; exact b4)), h.bel.trans ((b3.mono h.bel.size).trans (b4.mono (by omega)))⟩
  exact ⟨h2, (b4.block _ (by omega)).trans h3, ⟨rfl, 23, h4⟩⟩
theorem Pl.set {w : World} {a b o o' : List UInt8} {w' w'' : World} {t : TypeId} (h : Pl w a b o w') (hg : w'.grownBy w'' (some (w.heap.size + 3))) (hl : o'.length = 32) (hh : w''.heap[w.heap.size + 3]? = some (.cells (bcs o').toArray t (0, 0))) : Pl w a b o' w'' :=
  ⟨⟨h.ab.a.grown hg (by simp), h.ab.b.grown hg (by simp), h.ab.bel.grown hg h.ab.bel.size (fun r hr => by injection hr; omega)⟩, (hg.block _ (Array.getElem?_eq_some_iff.1 h.res).1 (by simp)).trans h.res, ⟨hl, t, hh⟩⟩
theorem Pl.keep {w : World} {a b o : List UInt8} {w' w'' : World} (h : Pl w a b o w') (hb : Below w'.heap.size w' w'') : Pl w a b o w'' :=
  ⟨⟨h.ab.a.keep hb, h.ab.b.keep hb, h.ab.bel.trans (hb.mono h.ab.bel.size)⟩, (hb.block _ (Array.getElem?_eq_some_iff.1 h.res).1).trans h.res, h.o.keep hb⟩
/-- The memory of plus when L is taken off. -/
structure Pm (w : World) (g : Nat) (o l : List UInt8) (w' : World) : Prop where
  hg : w.heap.size + 4 ≤ g
  res : w'.heap[w.heap.size + 2]? = some (.cells (zbs 32) 23 (0, 0))
  o : BAt w' (w.heap.size + 3) o
  l : BAt w' g l
  bel : Below w.heap.size w w'
theorem Pm.drew1 {w : World} {g : Nat} {o l : List UInt8} {w' : World} (h : Pm w g o l w') : Pm w g o l { heap := w'.heap, tape := w'.tape, drawn := w'.drawn + 1, os := w'.os, output := w'.output } :=
  ⟨h.hg, h.res, h.o, h.l, below_drewN' h.bel 1⟩
theorem Pm.set {w : World} {g : Nat} {o l o' : List UInt8} {w' w'' : World} {t : TypeId} (h : Pm w g o l w') (hg : w'.grownBy w'' (some (w.heap.size + 3))) (hl : o'.length = 32) (hh : w''.heap[w.heap.size + 3]? = some (.cells (bcs o').toArray t (0, 0))) : Pm w g o' l w'' :=
  ⟨h.hg, (hg.block _ (Array.getElem?_eq_some_iff.1 h.res).1 (by simp)).trans h.res, ⟨hl, t, hh⟩, h.l.grown hg (by have := h.hg; simp; omega), h.bel.grown hg h.bel.size (fun r hr => by injection hr; omega)⟩
theorem Pm.start {w : World} {a b o : List UInt8} {u x y : World} {m : Nat} (h : Pl w a b o u) (hx : x.heap[u.heap.size]? = some (.cells (zbs 32) 23 (0, 0))) (zx : x.heap.size = u.heap.size + 1) (gx : u.grownBy x none)
    (hy : y.heap[u.heap.size]? = some (.cells (bcs (enc m)).toArray 23 (0, 0))) (gy : x.grownBy y (some u.heap.size)) : Pm w u.heap.size o (enc m) y := by
  obtain ⟨ho, t, ht⟩ := h.o
  have hs : w.heap.size + 3 < u.heap.size := (Array.getElem?_eq_some_iff.1 ht).1
  have hk := h.keep (below_of_grownBy gx)
  exact ⟨by omega, (gy.block _ (by omega) (by simp; omega)).trans hk.res, hk.o.grown gy (by simp; omega), ⟨enc_len m, 23, hy⟩, hk.ab.bel.grown gy hk.ab.bel.size (fun r hr => by injection hr; omega)⟩
set_option maxHeartbeats 4000000 in
theorem plus_core (a b : List UInt8) (A B R : Nat) (w : World) (HA : Hid (a.length = 32)) (HB : Hid (b.length = 32)) (HAV : Hid (leb a = A)) (HBV : Hid (leb b = B)) (HS : Hid (A + B < TT))
    (HRA : Hid (A + B < lN → R = A + B)) (HRB : Hid (¬ A + B < lN → R + lN = A + B))
    (CL : Hid (∀ w, Calls Try.prog 37 #[] w (Gives (vN lN) w)))
    (CB : Hid (∀ w, Calls Try.prog 104 #[vN (A + B), vN lN] w (Gives (.bool (decide (A + B < lN))) w))) :
    Calls Try.prog 90 #[.agg (bcs a).toArray, .agg (bcs b).toArray] w (Gives (vN R) w) := by
  go_enter Try.func90, Try.ntmps90
  go_wp2_with (first | ((with_reducible show wpList _ _ _ (⟨some 2, .box 23 (.tmp 0), _, _, _, _⟩ :: _) _ _); go_must (refine wpList_box_row rfl 23 (.tmp 0) rfl (bcs a).toArray rfl ?_; intro w1 h1 z1 g1; have H1 := Lib.hid h1; have Z1 := Lib.hid z1; have G1 := Lib.hid g1; clear h1 z1 g1)) | ((with_reducible show wpList _ _ _ (⟨some 3, .box 23 (.tmp 1), _, _, _, _⟩ :: _) _ _); go_must (refine wpList_box_row rfl 23 (.tmp 1) rfl (bcs b).toArray rfl ?_; intro w2 h1 z1 g1; have H2 := Lib.hid h1; have Z2 := Lib.hid z1; have G2 := Lib.hid g1; clear h1 z1 g1)) | ((with_reducible show wpList _ _ _ (⟨some 4, .alloc 23, _, _, _, _⟩ :: _) _ _); go_must (refine wpList_alloc_row rfl 23 rfl (.agg (zbs 32)) zero23 ?_; intro w3 h1 z1 g1; have H3 := Lib.hid h1; have Z3 := Lib.hid z1; have G3 := Lib.hid g1; clear h1 z1 g1)) | ((with_reducible show wpList _ _ _ (⟨some 5, .alloc 23, _, _, _, _⟩ :: _) _ _); go_must (refine wpList_alloc_row rfl 23 rfl (.agg (zbs 32)) zero23 ?_; intro w4 h1 z1 g1; have H4 := Lib.hid h1; have Z4 := Lib.hid z1; have G4 := Lib.hid g1; clear h1 z1 g1)) | fail)
  have S : Hid (Pl w a b (List.replicate 32 0) w4) := Lib.hid (Pl.start (Ab.start HA.out HB.out H1.out Z1.out G1.out H2.out G2.out) (by rw [Z2.out, Z1.out]) H3.out Z3.out G3.out H4.out G4.out)
  rw [show w3.heap.size = w.heap.size + 3 from by rw [Z3.out, Z2.out, Z1.out], show w2.heap.size = w.heap.size + 2 from by rw [Z2.out, Z1.out], show w1.heap.size = w.heap.size + 1 from Z1.out]
  clear H1 Z1 G1 H2 Z2 G2 H3 Z3 G3 H4 Z4 G4
  go_loopw [6, 7] (fun c i wr => ∃ n k : Nat, ∃ o : List UInt8, n ≤ 32 ∧ k ≤ 1 ∧ c = .int .i64 k ∧ i = .int .i64 n ∧ Hid (leb (o.take n) + 256 ^ n * k = leb (a.take n) + leb (b.take n)) ∧ Pl w a b o wr) (fun _ i _ => 32 - (intOf i).toNat)
  case atStart => exact ⟨0, 0, List.replicate 32 0, by omega, by omega, rfl, rfl, Lib.hid (by simp [leb]), S.out⟩
  case round =>
    obtain ⟨n, k, o, hn, hk, rfl, rfl, HV, hp⟩ := hrel
    have H := Lib.hid hp
    clear hp S
    by_cases hlt : n < 32
    · have hni : (n : Int) < 32 := by omega
      have ca := H.out.ab.a.cell n (by omega)
      have cb := H.out.ab.b.cell n (by omega)
      have HX := Lib.hid (UInt8.toNat_lt (a.getD n 0))
      have HY := Lib.hid (UInt8.toNat_lt (b.getD n 0))
      have HST := Lib.hid (fun v d (e : k + (a.getD n 0).toNat + (b.getD n 0).toNat = v + 256 * d) => add_step _ _ _ _ _ k v d n HV.out e)
      rw [← leb_take_succ, ← leb_take_succ] at HST
      generalize (a.getD n 0).toNat = x at *
      generalize (b.getD n 0).toNat = y at *
      go_wp2_with fail
      refine wp_region_still_lit (by kernel_rfl) (by kernel_rfl) ?_
      have ca' : ({ heap := wr.heap, tape := wr.tape, drawn := wr.drawn + 1, os := wr.os, output := wr.output } : World).cell? ⟨w.heap.size, n, none⟩ = some (.int .u8 (x : Int)) := ca
      have cb' : ({ heap := wr.heap, tape := wr.tape, drawn := wr.drawn + 1, os := wr.os, output := wr.output } : World).cell? ⟨w.heap.size + 1, n, none⟩ = some (.int .u8 (y : Int)) := cb
      repeat still_step
      refine wpStill_nil ?_
      have HV1 : Hid (IntKind.i64.wrap (IntKind.i64.wrap ((k : Int) + IntKind.i64.wrap (x : Int)) + IntKind.i64.wrap (y : Int)) = ((k + x + y : Nat) : Int)) := by have := HX.out; have := HY.out; rw [IntKind.wrap_i64, IntKind.wrap_i64, IntKind.wrap_i64, IntKind.wrap_i64]; exact Lib.hid (by omega)
      rw [HV1.out]
      have HD : Hid (Pl w a b o { heap := wr.heap, tape := wr.tape, drawn := wr.drawn + 1, os := wr.os, output := wr.output }) := H.out.drew1
      clear H ca cb ca' cb' HV1
      obtain ⟨wd, hwd⟩ : ∃ z, z = ({ heap := wr.heap, tape := wr.tape, drawn := wr.drawn + 1, os := wr.os, output := wr.output } : World) := ⟨_, rfl⟩
      rw [← hwd] at HD
      rw [← hwd]
      clear hwd
      have HSB : Hid (k + x + y < 512) := Lib.hid (by have := HX.out; have := HY.out; omega)
      generalize k + x + y = s at *
      have hs0 : (s : Int) < 512 := by have := HSB.out; omega
      have HOL : Hid (o.length = 32) := HD.out.o.1
      obtain ⟨t, ht⟩ := HD.out.o.2
      have HT := Lib.hid ht
      clear ht
      go_wp2_with (first | ((with_reducible show wpList _ _ _ (⟨none, .store 5 (.tmp 29) (.tmp 28), _, _, _, _⟩ :: _) _ _); go_must (refine wpList_store_one rfl 5 (.tmp 29) (.tmp 28) rfl (w.heap.size + 3) n rfl .u8 _ rfl t _ HT.out size5 (by simp only [List.size_toArray, bcs_len]; have := HOL.out; omega) ?_; intro w5 hh hg hz; have HH := Lib.hid hh; have HG := Lib.hid hg; clear hh hg hz)) | fail)
      have hh := HH.out
      rw [show (Value.int IntKind.u8 ((s : Int) % 256)) = bc (UInt8.ofNat (s % 256)) from by unfold bc; rw [of_byte, Nat.mod_mod]; rfl, bcs_put] at hh
      refine ⟨⟨n + 1, s / 256, _, by omega, by omega, by go_num, by go_num, Lib.hid ?_, HD.out.set HG.out (by rw [List.length_set]; exact HOL.out) hh⟩, by simp [intOf]; omega⟩
      rw [leb_take_put _ _ _ (by have := HOL.out; omega), of_byte, Nat.mod_mod]
      exact HST.out (s % 256) (s / 256) (by omega)
    · obtain rfl : n = 32 := by omega
      have HOL : Hid (o.length = 32) := H.out.o.1
      have HOV : Hid (leb o = A + B) := Lib.hid (by
        have h := HV.out
        rw [leb_take_all _ _ HOL.out, leb_take_all _ _ HA.out, leb_take_all _ _ HB.out, HAV.out, HBV.out, show (256 : Nat) ^ 32 = 115792089237316195423570985008687907853269984665640564039457584007913129639936 from rfl] at h
        have h2 := HS.out
        unfold TT at h2
        omega)
      have HOE : Hid (o = enc (A + B)) := Lib.hid (by have h := leb_inj o HOL.out; rw [HOV.out] at h; exact h)
      clear HV
      obtain ⟨t, ht⟩ := H.out.o.2
      have HN : Hid (NAt wr (w.heap.size + 3) (A + B)) := Lib.hid ⟨t, by rw [← HOE.out]; exact ht⟩
      clear ht
      by_cases hc : A + B < lN
      · rw [decide_eq_true hc] at CB
        have HR := HRA.out hc
        subst HR
        go_wp2_with fail
        refine region_wq (by kernel_rfl) (by kernel_rfl) ?_
        refine wq_load rfl (.tmp 5) rfl (w.heap.size + 3) (A + B) rfl HN.out ?_
        simp only [Act.put, List.setIfInBounds_toArray, List.set_cons_zero, List.set_cons_succ]
        refine wq_call rfl 37 [] #[] rfl [] rfl (CG37 _) (vN lN) CL.out ?_
        simp only [Act.put, List.setIfInBounds_toArray, List.set_cons_zero, List.set_cons_succ]
        refine wq_call rfl 104 [.tmp 32, .tmp 33] #[23, 23] rfl [vN (A + B), vN lN] rfl (CG104 _) (.bool true) CB.out ?_
        simp only [Act.put, List.setIfInBounds_toArray, List.set_cons_zero, List.set_cons_succ]
        refine wq_nil ?_
        intro W hb
        have H1 := Lib.hid (H.out.keep hb)
        clear hb H HN
        obtain ⟨t, ht⟩ := H1.out.o.2
        have HT := Lib.hid ht
        clear ht
        go_wp2_with (first | ((with_reducible show wpList _ _ _ (⟨_, .load 23 (.tmp 5), _, _, _, _⟩ :: _) _ _); go_must (refine wpList_load_arr rfl 23 (.tmp 5) rfl (w.heap.size + 3) 0 rfl (bcs o) (fun i u hu => by rw [Nat.zero_add]; exact row_cells HT.out i u (by simpa using hu)) _ under23 rfl (by rw [bcs_len, HOL.out]; exact size23) ?_)) | ((with_reducible show wpList _ _ _ (⟨none, .store 23 (.tmp 4) (.tmp 35), _, _, _, _⟩ :: _) _ _); go_must (refine wpList_store_all rfl 23 (.tmp 4) (.tmp 35) rfl (w.heap.size + 2) rfl (bcs o).toArray rfl 23 _ H1.out.res (by rw [List.size_toArray, bcs_len, HOL.out]; exact size23) (by rw [List.size_toArray, bcs_len, HOL.out]; rfl) (bcs_one _) ?_; intro x6 hh hg hz; have HH := Lib.hid hh; have HG := Lib.hid hg; clear hh hg hz)) | fail)
        refine bodyPost_ret (results_cell_row rfl _ _ (w.heap.size + 2) 23 (bcs o).toArray _ _ rfl HH.out under23 rfl (by rw [List.size_toArray, bcs_len, HOL.out]; exact size23)) rfl ?_
        exact ⟨by rw [HOE.out]; rfl, H1.out.ab.bel.grown HG.out H1.out.ab.bel.size (fun r hr => by injection hr; omega)⟩
      · rw [decide_eq_false hc] at CB
        have HR := Lib.hid (HRB.out hc)
        clear HRA HRB
        go_wp2_with fail
        refine region_wq (by kernel_rfl) (by kernel_rfl) ?_
        refine wq_load rfl (.tmp 5) rfl (w.heap.size + 3) (A + B) rfl HN.out ?_
        simp only [Act.put, List.setIfInBounds_toArray, List.set_cons_zero, List.set_cons_succ]
        refine wq_call rfl 37 [] #[] rfl [] rfl (CG37 _) (vN lN) CL.out ?_
        simp only [Act.put, List.setIfInBounds_toArray, List.set_cons_zero, List.set_cons_succ]
        refine wq_call rfl 104 [.tmp 32, .tmp 33] #[23, 23] rfl [vN (A + B), vN lN] rfl (CG104 _) (.bool false) CB.out ?_
        simp only [Act.put, List.setIfInBounds_toArray, List.set_cons_zero, List.set_cons_succ]
        refine wq_nil ?_
        intro W hb
        have H1 := Lib.hid (H.out.keep hb)
        clear hb H HN
        go_wp2_with fail
        refine (CL.out _).mono ?_
        rintro e x4 ⟨rfl, hb⟩
        have H2 := Lib.hid (H1.out.keep hb)
        clear hb H1
        go_wp2_with (first | ((with_reducible show wpList _ _ _ (⟨some 8, .alloc 23, _, _, _, _⟩ :: _) _ _); go_must (refine wpList_alloc_row rfl 23 rfl (.agg (zbs 32)) zero23 ?_; intro x5 h1 z1 g1; have H3 := Lib.hid h1; have Z3 := Lib.hid z1; have G3 := Lib.hid g1; clear h1 z1 g1)) | ((with_reducible show wpList _ _ _ (⟨none, .store 23 (.tmp 8) (.tmp 36), _, _, _, _⟩ :: _) _ _); go_must (refine wpList_store_all rfl 23 (.tmp 8) (.tmp 36) rfl (x4.heap.size) rfl (bcs (enc lN)).toArray rfl 23 _ H3.out (by rw [List.size_toArray, bcs_enc_len]; exact size23) (by rw [List.size_toArray, bcs_enc_len]; rfl) (bcs_one _) ?_; intro x6 hh hg hz; have HH := Lib.hid hh; have HG := Lib.hid hg; clear hh hg hz)) | fail)
        have SM : Hid (Pm w x4.heap.size o (enc lN) x6) := Lib.hid (Pm.start H2.out H3.out Z3.out G3.out HH.out HG.out)
        clear H2 H3 Z3 G3 HH HG
        have HLV : Hid (leb (enc lN) = lN) := Lib.hid (by rw [← nv_leb _ (enc_len lN)]; exact nv_enc lN (by unfold lN; omega))
        have HLL : Hid ((enc lN).length = 32) := Lib.hid (enc_len lN)
        generalize vN lN = vl at *
        generalize vN (A + B) = vs at *
        generalize enc lN = l at *
        generalize x4.heap.size = g at *
        go_loopw [6, 9] (fun c i wr => ∃ n k : Nat, ∃ q : List UInt8, n ≤ 32 ∧ k ≤ 1 ∧ c = .int .i64 (-(k : Int)) ∧ i = .int .i64 n ∧ Hid (leb (q.take n) + leb (l.take n) = leb (o.take n) + 256 ^ n * k) ∧ Hid (∀ j, n ≤ j → (q.getD j 0).toNat = (o.getD j 0).toNat) ∧ Pm w g q l wr) (fun _ i _ => 32 - (intOf i).toNat)
        case atStart => exact ⟨0, 0, o, by omega, by omega, rfl, rfl, Lib.hid (by simp [leb]), Lib.hid (fun _ _ => rfl), SM.out⟩
        case round =>
          obtain ⟨n, k, q, hn, hk, rfl, rfl, HV, HE, hp⟩ := hrel
          have H := Lib.hid hp
          clear hp SM
          by_cases hlt : n < 32
          · have hni : (n : Int) < 32 := by omega
            have ca := H.out.o.cell n (by omega)
            have cb := H.out.l.cell n (by omega)
            rw [HE.out n (Nat.le_refl n)] at ca
            have HX := Lib.hid (UInt8.toNat_lt (o.getD n 0))
            have HY := Lib.hid (UInt8.toNat_lt (l.getD n 0))
            have HST := Lib.hid (fun v d (e : v + (l.getD n 0).toNat + k = (o.getD n 0).toNat + 256 * d) => sub_step _ _ _ _ _ k v d n HV.out e)
            rw [← leb_take_succ, ← leb_take_succ] at HST
            generalize (o.getD n 0).toNat = x at *
            generalize (l.getD n 0).toNat = y at *
            have HQL : Hid (q.length = 32) := H.out.o.1
            go_wp2_with fail
            refine wp_region_still_lit (by kernel_rfl) (by kernel_rfl) ?_
            have ca' : ({ heap := wr.heap, tape := wr.tape, drawn := wr.drawn + 1, os := wr.os, output := wr.output } : World).cell? ⟨w.heap.size + 3, n, none⟩ = some (.int .u8 (x : Int)) := ca
            have cb' : ({ heap := wr.heap, tape := wr.tape, drawn := wr.drawn + 1, os := wr.os, output := wr.output } : World).cell? ⟨g, n, none⟩ = some (.int .u8 (y : Int)) := cb
            repeat still_step
            refine wpStill_nil ?_
            obtain ⟨u, hu⟩ : ∃ u : Nat, (x : Int) - (y : Int) - (k : Int) = (u : Int) - 256 := ⟨x + 256 - y - k, by have := HY.out; omega⟩
            have HV1 : Hid (IntKind.i64.wrap (IntKind.i64.wrap (IntKind.i64.wrap (x : Int) - IntKind.i64.wrap (y : Int)) + -(k : Int)) = (u : Int) - 256) := by have := HX.out; have := HY.out; rw [wrap_small (x : Int) (by omega) (by omega), wrap_small (y : Int) (by omega) (by omega), wrap_small ((x : Int) - (y : Int)) (by omega) (by omega), wrap_small _ (by omega) (by omega), ← hu]; exact Lib.hid (by omega)
            rw [HV1.out]
            have HU := Lib.hid hu
            have HUB : Hid (u < 512) := Lib.hid (by have := HX.out; omega)
            have HD : Hid (Pm w g q l { heap := wr.heap, tape := wr.tape, drawn := wr.drawn + 1, os := wr.os, output := wr.output }) := H.out.drew1
            clear H ca cb ca' cb' HV1 hu
            obtain ⟨wd, hwd⟩ : ∃ z, z = ({ heap := wr.heap, tape := wr.tape, drawn := wr.drawn + 1, os := wr.os, output := wr.output } : World) := ⟨_, rfl⟩
            rw [← hwd] at HD
            rw [← hwd]
            clear hwd
            have hub : (u : Int) < 512 := by have := HUB.out; omega
            obtain ⟨t, ht⟩ := HD.out.o.2
            have HT := Lib.hid ht
            clear ht
            by_cases hneg : u < 256
            · skip
              have hs0 : (u : Int) < 256 := by omega
              go_wp2_with (first | ((with_reducible show wpList _ _ _ (⟨none, .store 5 (.tmp 57) (.tmp 56), _, _, _, _⟩ :: _) _ _); go_must (refine wpList_store_one rfl 5 (.tmp 57) (.tmp 56) rfl (w.heap.size + 3) n rfl .u8 _ rfl t _ HT.out size5 (by simp only [List.size_toArray, bcs_len]; have := HQL.out; omega) ?_; intro w5 hh hg hz; have HH := Lib.hid hh; have HG := Lib.hid hg; clear hh hg hz)) | fail)
              have hh := HH.out
              rw [show (Value.int IntKind.u8 ((u : Int) % 256)) = bc (UInt8.ofNat (u % 256)) from by unfold bc; rw [of_byte, Nat.mod_mod]; rfl, bcs_put] at hh
              refine ⟨⟨n + 1, 1, _, by omega, by omega, rfl, by go_num, Lib.hid ?_, Lib.hid fun j hj => ?_, HD.out.set HG.out (by rw [List.length_set]; exact HQL.out) hh⟩, by simp [intOf]; omega⟩
              · rw [leb_take_put _ _ _ (by have := HQL.out; omega), of_byte, Nat.mod_mod]
                exact HST.out (u % 256) 1 (by have := HU.out; omega)
              · rw [getD_set_above _ _ _ _ (by omega)]
                exact HE.out j (by omega)
            · skip
              have hs0 : (256 : Int) ≤ (u : Int) := by omega
              go_wp2_with (first | ((with_reducible show wpList _ _ _ (⟨none, .store 5 (.tmp 57) (.tmp 56), _, _, _, _⟩ :: _) _ _); go_must (refine wpList_store_one rfl 5 (.tmp 57) (.tmp 56) rfl (w.heap.size + 3) n rfl .u8 _ rfl t _ HT.out size5 (by simp only [List.size_toArray, bcs_len]; have := HQL.out; omega) ?_; intro w5 hh hg hz; have HH := Lib.hid hh; have HG := Lib.hid hg; clear hh hg hz)) | fail)
              have hh := HH.out
              rw [show (Value.int IntKind.u8 ((u : Int) % 256)) = bc (UInt8.ofNat (u % 256)) from by unfold bc; rw [of_byte, Nat.mod_mod]; rfl, bcs_put] at hh
              refine ⟨⟨n + 1, 0, _, by omega, by omega, by go_num, by go_num, Lib.hid ?_, Lib.hid fun j hj => ?_, HD.out.set HG.out (by rw [List.length_set]; exact HQL.out) hh⟩, by simp [intOf]; omega⟩
              · rw [leb_take_put _ _ _ (by have := HQL.out; omega), of_byte, Nat.mod_mod]
                exact HST.out (u % 256) 0 (by have := HU.out; omega)
              · rw [getD_set_above _ _ _ _ (by omega)]
                exact HE.out j (by omega)
          · obtain rfl : n = 32 := by omega
            have HOL : Hid (q.length = 32) := H.out.o.1
            have HQV : Hid (leb q + lN = A + B + 256 ^ 32 * k) := Lib.hid (by
              have h := HV.out
              rw [leb_take_all _ _ HOL.out, leb_take_all _ _ HLL.out, leb_take_all _ _ (by rw [HOE.out]; exact enc_len _), HLV.out, HOV.out] at h
              exact h)
            have HRV : Hid (leb q = R) := Lib.hid (by
              have h := HQV.out
              have h2 := leb_lt q
              rw [HOL.out] at h2
              rw [show (256 : Nat) ^ 32 = 115792089237316195423570985008687907853269984665640564039457584007913129639936 from rfl] at h h2
              have h3 := HR.out
              have h4 : lN < 115792089237316195423570985008687907853269984665640564039457584007913129639936 := by unfold lN; omega
              generalize lN = L at *
              omega)
            have HRE : Hid (q = enc R) := Lib.hid (by have h := leb_inj q HOL.out; rw [HRV.out] at h; exact h)
            obtain ⟨t, ht⟩ := H.out.o.2
            have HT := Lib.hid ht
            clear ht HV HE HQV
            go_wp2_with (first | ((with_reducible show wpList _ _ _ (⟨_, .load 23 (.tmp 5), _, _, _, _⟩ :: _) _ _); go_must (refine wpList_load_arr rfl 23 (.tmp 5) rfl (w.heap.size + 3) 0 rfl (bcs q) (fun i u hu => by rw [Nat.zero_add]; exact row_cells HT.out i u (by simpa using hu)) _ under23 rfl (by rw [bcs_len, HOL.out]; exact size23) ?_)) | ((with_reducible show wpList _ _ _ (⟨none, .store 23 (.tmp 4) (.tmp 60), _, _, _, _⟩ :: _) _ _); go_must (refine wpList_store_all rfl 23 (.tmp 4) (.tmp 60) rfl (w.heap.size + 2) rfl (bcs q).toArray rfl 23 _ H.out.res (by rw [List.size_toArray, bcs_len, HOL.out]; exact size23) (by rw [List.size_toArray, bcs_len, HOL.out]; rfl) (bcs_one _) ?_; intro x6 hh hg hz; have HH := Lib.hid hh; have HG := Lib.hid hg; clear hh hg hz)) | fail)
            refine bodyPost_ret (results_cell_row rfl _ _ (w.heap.size + 2) 23 (bcs q).toArray _ _ rfl HH.out under23 rfl (by rw [List.size_toArray, bcs_len, HOL.out]; exact size23)) rfl ?_
            exact ⟨by rw [HRE.out]; rfl, H.out.bel.grown HG.out H.out.bel.size (fun r hr => by injection hr; omega)⟩
theorem splus_any (a b : Nat) (ha : a < lN) (hb : b < lN) (w : World) : Calls Try.prog 90 #[vN a, vN b] w (Gives (vN ((a + b) % lN)) w) := by
  have hT : lN + lN < TT := by unfold lN TT; omega
  have h := sumL a b ha hb
  have e : ∀ n, n < TT → leb (enc n) = n := fun n hn => by rw [← nv_leb _ (enc_len n)]; exact nv_enc n hn
  exact plus_core (enc a) (enc b) a b _ w (Lib.hid (enc_len a)) (Lib.hid (enc_len b)) (Lib.hid (e a (by omega))) (Lib.hid (e b (by omega))) (Lib.hid (by omega)) (Lib.hid (fun hc => by rw [h, if_pos hc])) (Lib.hid (fun hc => by rw [h, if_neg hc]; omega)) (Lib.hid rL_any) (Lib.hid (below_any _ _ (by omega) (by omega)))
end Go.Proofs.Ytgdimnbdnepbgaa
/- The reference's rest of bytes. No statement is proved here. -/
namespace Go.Proofs.Ytgdimnbdnepbgaa
open Go.RowKit
set_option linter.unusedVariables false
set_option maxRecDepth 40000
set_option linter.unusedSimpArgs false

/-- Bytes that fill a row. -/
def DAt (w : World) (g : Nat) (l : List UInt8) : Prop := ∃ t, w.heap[g]? = some (.cells (bcs l).toArray t (0, 0))
theorem DAt.lt {w : World} {g : Nat} {l : List UInt8} (h : DAt w g l) : g < w.heap.size := by obtain ⟨t, ht⟩ := h; exact (Array.getElem?_eq_some_iff.1 ht).1
theorem DAt.keep {w w' : World} {g : Nat} {l : List UInt8} (h : DAt w g l) (hb : Below w.heap.size w w') : DAt w' g l := by
  obtain ⟨t, ht⟩ := h
  exact ⟨t, (hb.block _ (Array.getElem?_eq_some_iff.1 ht).1).trans ht⟩
theorem DAt.grown {w w' : World} {g : Nat} {l : List UInt8} {row : Option Nat} (h : DAt w g l) (hb : w.grownBy w' row) (hg : some g ≠ row) : DAt w' g l := by
  obtain ⟨t, ht⟩ := h
  exact ⟨t, (hb.block _ (Array.getElem?_eq_some_iff.1 ht).1 hg).trans ht⟩
theorem DAt.cell {w : World} {g : Nat} {l : List UInt8} (h : DAt w g l) (i : Nat) (hi : i < l.length) : w.cell? ⟨g, i, none⟩ = some (.int .u8 ((l.getD i 0).toNat : Nat)) := by
  obtain ⟨t, ht⟩ := h
  rw [cell_of_row w g i _ _ _ ht]
  simp [bcs, bc, hi]
/-- The memory of rest. -/
structure Rs (w : World) (g : Nat) (l : List UInt8) (v : Nat) (w' : World) : Prop where
  b : DAt w' g l
  res : RAt w' w.heap.size [0]
  o : RAt w' (w.heap.size + 1) [v]
  one : RAt w' (w.heap.size + 2) [1]
  bel : Below w.heap.size w w'
theorem Rs.keep {w : World} {g v : Nat} {l : List UInt8} {w' w'' : World} (h : Rs w g l v w') (hb : Below w'.heap.size w' w'') : Rs w g l v w'' :=
  ⟨h.b.keep hb, h.res.keep hb, h.o.keep hb, h.one.keep hb, h.bel.trans (hb.mono h.bel.size)⟩
theorem Rs.put {w : World} {g v u : Nat} {l : List UInt8} {w' w'' : World} (h : Rs w g l v w') (hl : g < w.heap.size) (hr : RAt w'' (w.heap.size + 1) [u]) (hg : w'.grownBy w'' (some (w.heap.size + 1))) : Rs w g l u w'' :=
  ⟨h.b.grown hg (by simp; omega), h.res.grown hg (by simp), hr, h.one.grown hg (by simp), h.bel.grown hg h.bel.size (fun r hr => by injection hr; omega)⟩
theorem one_row : (bcs (List.replicate 32 0)).toArray.setIfInBounds 0 (.int .u8 1) = (bcs (encs [1])).toArray := by kernel_rfl
theorem Rs.start {w w1 w2 w3 w4 : World} {g : Nat} {l : List UInt8} {t : TypeId} (h : DAt w g l)
    (h1 : w1.heap[w.heap.size]? = some (.cells (zbs 32) 23 (0, 0))) (z1 : w1.heap.size = w.heap.size + 1) (g1 : w.grownBy w1 none)
    (h2 : w2.heap[w1.heap.size]? = some (.cells (zbs 32) 23 (0, 0))) (z2 : w2.heap.size = w1.heap.size + 1) (g2 : w1.grownBy w2 none)
    (z3 : w3.heap.size = w2.heap.size + 1) (g3 : w2.grownBy w3 none)
    (h4 : w4.heap[w2.heap.size]? = some (.cells (bcs (encs [1])).toArray t (0, 0))) (g4 : w3.grownBy w4 (some w2.heap.size)) : Rs w g l 0 w4 := by
  have hl := h.lt
  have k1 := below_of_grownBy g1
  have r1 : RAt w4 w.heap.size [0] := (((zrow (k := 1) h1).grown g2 (by simp)).grown g3 (by simp)).grown g4 (by simp; omega)
  have r2 : RAt w4 w1.heap.size [0] := ((zrow (k := 1) h2).grown g3 (by simp)).grown g4 (by simp; omega)
  rw [z1] at r2 z2
  have r3 : RAt w4 w2.heap.size [1] := ⟨t, h4⟩
  have hb : Below w.heap.size w w4 := (((k1.grown g2 (by omega) (by simp)).grown g3 (by omega) (by simp)).grown g4 (by omega) (fun r hr => by injection hr; omega))
  rw [z2] at r3
  exact ⟨(((h.grown g1 (by simp)).grown g2 (by simp)).grown g3 (by simp)).grown g4 (by simp; omega), r1, r2, r3, hb⟩
set_option maxHeartbeats 4000000 in
theorem rest_core (l : List UInt8) (g n V : Nat) (w : World) (HL : Hid (l.length = n)) (hn : n ≤ 64) (HG : Hid (DAt w g l)) (HV : Hid (leb l = V)) (h1L : Hid (1 < lN))
    (CP : Hid (∀ a b, a < lN → b < lN → ∀ w, Calls Try.prog 90 #[vN a, vN b] w (Gives (vN ((a + b) % lN)) w))) :
    Calls Try.prog 91 #[.slice (some ⟨g, 0, none⟩) n n] w (Gives (vN (V % lN)) w) := by
  go_enter Try.func91, Try.ntmps91
  go_wp2_with (first | ((with_reducible show wpList _ _ _ (⟨some 2, .alloc 23, _, _, _, _⟩ :: _) _ _); go_must (refine wpList_alloc_row rfl 23 rfl (.agg (zbs 32)) zero23 ?_; intro w1 h1 z1 g1; have H1 := Lib.hid h1; have Z1 := Lib.hid z1; have G1 := Lib.hid g1; clear h1 z1 g1)) | ((with_reducible show wpList _ _ _ (⟨some 3, .alloc 23, _, _, _, _⟩ :: _) _ _); go_must (refine wpList_alloc_row rfl 23 rfl (.agg (zbs 32)) zero23 ?_; intro w2 h1 z1 g1; have H2 := Lib.hid h1; have Z2 := Lib.hid z1; have G2 := Lib.hid g1; clear h1 z1 g1)) | ((with_reducible show wpList _ _ _ (⟨some 4, .alloc 23, _, _, _, _⟩ :: _) _ _); go_must (refine wpList_alloc_row rfl 23 rfl (.agg (zbs 32)) zero23 ?_; intro w3 h1 z1 g1; have H3 := Lib.hid h1; have Z3 := Lib.hid z1; have G3 := Lib.hid g1; clear h1 z1 g1)) | ((with_reducible show wpList _ _ _ (⟨none, .store 5 (.tmp 6) _, _, _, _, _⟩ :: _) _ _); go_must (refine wpList_store_one rfl 5 (.tmp 6) _ rfl w2.heap.size 0 rfl .u8 1 rfl 23 _ H3.out size5 (by show 0 < 32; omega) ?_; intro w4 hh hg hz; rw [show (Value.agg (zbs 32)).cells.setIfInBounds 0 (.int .u8 1) = (bcs (encs [1])).toArray from one_row] at hh; have HH := Lib.hid hh; have HG4 := Lib.hid hg; clear hh hg hz)) | fail)
  have S : Hid (Rs w g l 0 w4) := Lib.hid (Rs.start HG.out H1.out Z1.out G1.out H2.out Z2.out G2.out Z3.out G3.out HH.out HG4.out)
  have HGL : Hid (g < w.heap.size) := Lib.hid HG.out.lt
  rw [show w2.heap.size = w.heap.size + 2 from by rw [Z2.out, Z1.out], show w1.heap.size = w.heap.size + 1 from Z1.out]
  clear H1 Z1 G1 H2 Z2 G2 H3 Z3 G3 HH HG4 HG
  have H0 : Hid (V / 2 ^ (8 * n) % lN = 0) := Lib.hid (by
    have h := leb_lt l
    rw [HL.out, HV.out, show (256 : Nat) = 2 ^ 8 from rfl, ← Nat.pow_mul] at h
    rw [Nat.div_eq_of_lt h, Nat.zero_mod])
  go_loopw [5] (fun i wr => ∃ m v : Nat, m ≤ 8 * n ∧ i = .int .i64 ((m : Int) - 1) ∧ Hid (v = V / 2 ^ m % lN) ∧ Rs w g l v wr) (fun i _ => (intOf i + 1).toNat)
  case atStart =>
    exact ⟨8 * n, 0, by omega, congrArg (Value.int .i64) (by omega), Lib.hid H0.out.symm, S.out⟩
  case round =>
    obtain ⟨m, v, hm, rfl, HM, hp⟩ := hrel
    have H := Lib.hid hp
    clear hp S H0
    have HVL : Hid (v < lN) := Lib.hid (by rw [HM.out]; exact Nat.mod_lt _ (by have := h1L.out; omega))
    by_cases h0 : m = 0
    · subst h0
      have HR : Hid (v = V % lN) := Lib.hid (by rw [HM.out, Nat.pow_zero, Nat.div_one])
      go_wp2_with (first | ((with_reducible show wpList _ _ _ (⟨_, .load 23 (.tmp 3), _, _, _, _⟩ :: _) _ _); go_must (refine wpList_exec rfl (vN v) (exec_loadF (.tmp 3) rfl (w.heap.size + 1) 0 0 rfl [v] v rfl H.out.o rfl) ?_)) | ((with_reducible show wpList _ _ _ (⟨none, .store 23 (.tmp 2) (.tmp 32), _, _, _, _⟩ :: _) _ _); go_must (refine wpList_storeF rfl (.tmp 2) (.tmp 32) rfl w.heap.size 0 0 rfl [0] v rfl rfl H.out.res (show 0 < 1 by omega) ?_; intro y hr hg hz; have HR2 := Lib.hid hr; have HG2 := Lib.hid hg; clear hr hg hz)) | fail)
      obtain ⟨tr, htr⟩ := HR2.out
      refine bodyPost_ret (results_cell_row rfl _ _ w.heap.size tr (bcs (encs [v])).toArray _ _ rfl htr under23 rfl (by rw [List.size_toArray, bcs_len, encs_len]; exact size23)) rfl ?_
      exact ⟨by rw [← HR.out, ← vR_one]; rfl, H.out.bel.grown HG2.out H.out.bel.size (fun r hr => by injection hr; omega)⟩
    · obtain ⟨k, rfl⟩ : ∃ k, m = k + 1 := ⟨m - 1, by omega⟩
      rw [show (((k + 1 : Nat) : Int) - 1) = (k : Int) from by omega]
      have hki : (k : Int) < 512 := by omega
      have HB : Hid (((v + v) % lN + bitL l k) % lN = V / 2 ^ k % lN) := Lib.hid (by rw [← HV.out, leb_halves l k, HM.out, HV.out, restL])
      have HVV : Hid ((v + v) % lN < lN) := Lib.hid (Nat.mod_lt _ (by have := h1L.out; omega))
      have C1 := Lib.hid (CP.out v v HVL.out HVL.out)
      go_wp2_with (first | ((with_reducible show wpList _ _ _ (⟨_, .load 23 (.tmp 3), _, _, _, _⟩ :: _) _ _); go_must (refine wpList_exec rfl (vN v) (exec_loadF (.tmp 3) rfl (w.heap.size + 1) 0 0 rfl [v] v rfl H.out.o rfl) ?_)) | fail)
      refine (C1.out _).mono ?_
      rintro e x4 ⟨rfl, hb⟩
      have H1 := Lib.hid (H.out.keep hb)
      clear hb H C1
      have C2 := Lib.hid (CP.out ((v + v) % lN) 1 HVV.out h1L.out)
      have HB0 : Hid (bitL l k = 0 → (v + v) % lN = V / 2 ^ k % lN) := Lib.hid fun e => by have h := HB.out; rw [e, Nat.add_zero, Nat.mod_mod] at h; exact h
      have HB1 : Hid (bitL l k = 1 → ((v + v) % lN + 1) % lN = V / 2 ^ k % lN) := Lib.hid fun e => by have h := HB.out; rw [e] at h; exact h
      clear HB
      generalize ((v + v) % lN + 1) % lN = v2 at *
      generalize (v + v) % lN = v1 at *
      have hkn : k / 8 < n := by omega
      have hki2 : (k : Int) / 8 < (n : Int) := by omega
      go_wp2_with (first | ((with_reducible show wpList _ _ _ (⟨none, .store 23 (.tmp 3) (.tmp 17), _, _, _, _⟩ :: _) _ _); go_must (refine wpList_storeF rfl (.tmp 3) (.tmp 17) rfl (w.heap.size + 1) 0 0 rfl [v] v1 rfl rfl H1.out.o (show 0 < 1 by omega) ?_; intro y hr hg hz; have H2 := Lib.hid (H1.out.put HGL.out hr hg); clear hr hg hz H1; have cb := H2.out.b.cell (k / 8) (by rw [HL.out]; omega))) | ((with_reducible show wpList _ _ _ (⟨some 29, .load 23 (.tmp 3), _, _, _, _⟩ :: _) _ _); go_must (refine wpList_exec rfl (vN v1) (exec_loadF (.tmp 3) rfl (w.heap.size + 1) 0 0 rfl [v1] v1 rfl H2.out.o rfl) ?_)) | ((with_reducible show wpList _ _ _ (⟨some 30, .load 23 (.tmp 4), _, _, _, _⟩ :: _) _ _); go_must (refine wpList_exec rfl (vN 1) (exec_loadF (.tmp 4) rfl (w.heap.size + 2) 0 0 rfl [1] 1 rfl H2.out.one rfl) ?_)) | fail)
      · rename ((((((l[k / 8]?.getD 0).toNat : Nat) : Int) / 2 ^ (k % 8)).tmod 2 == 1) = true) => h
        have hb1 : bitL l k = 1 := by rw [bit_int] at h; have := eq_of_beq h; omega
        have HE := Lib.hid (HB1.out hb1)
        clear h hb1 HB0 HB1 cb
        refine (C2.out _).mono ?_
        rintro e x6 ⟨rfl, hb⟩
        have H3 := Lib.hid (H2.out.keep hb)
        clear hb H2 C2
        go_wp2_with (first | ((with_reducible show wpList _ _ _ (⟨none, .store 23 (.tmp 3) (.tmp 31), _, _, _, _⟩ :: _) _ _); go_must (refine wpList_storeF rfl (.tmp 3) (.tmp 31) rfl (w.heap.size + 1) 0 0 rfl [v1] v2 rfl rfl H3.out.o (show 0 < 1 by omega) ?_; intro y hr hg hz; have H4 := Lib.hid (H3.out.put HGL.out hr hg); clear hr hg hz H3)) | fail)
        exact ⟨⟨k, v2, by omega, rfl, HE, H4.out⟩, by simp [intOf]⟩
      · rename ((((((l[k / 8]?.getD 0).toNat : Nat) : Int) / 2 ^ (k % 8)).tmod 2 == 1) = false) => h
        have hb1 : bitL l k = 0 := by
          rw [bit_int] at h
          have h2 := bitL_lt l k
          by_cases e : bitL l k = 1
          · rw [e] at h; exact absurd h (by decide)
          · omega
        exact ⟨⟨k, v1, by omega, rfl, Lib.hid (HB0.out hb1), H2.out⟩, by simp [intOf]⟩
theorem one_lt_L : 1 < lN := by unfold lN; omega
theorem rest_any (l : List UInt8) (g : Nat) (w : World) (hn : l.length ≤ 64) (h : DAt w g l) : Calls Try.prog 91 #[.slice (some ⟨g, 0, none⟩) l.length l.length] w (Gives (vN (leb l % lN)) w) :=
  rest_core l g _ _ w (Lib.hid rfl) hn (Lib.hid h) (Lib.hid rfl) (Lib.hid one_lt_L) (Lib.hid fun a b ha hb => splus_any a b ha hb)
end Go.Proofs.Ytgdimnbdnepbgaa
/- The reference's sum and product of scalars, and its rest of a number. No statement is proved here. -/
namespace Go.Proofs.Ytgdimnbdnepbgaa
open Go.RowKit
set_option linter.unusedVariables false
set_option maxRecDepth 40000
set_option linter.unusedSimpArgs false

theorem run_slice23 (g : Nat) (w : World) : (Instr.sliceAt 23 (.pointer (some ⟨g, 0, none⟩)) none none none).run Try.prog w = .ok (.slice (some ⟨g, 0, none⟩) 32 32) w := by kernel_rfl
theorem exec_slice23 {o : Oper} {a : Act} {w : World} (x : Operand) (ho : o.op = .slice 23 x none none none) (g : Nat) (hx : a.eval x = .pointer (some ⟨g, 0, none⟩)) : (execOp a.eval o).run Try.prog w = .ok (.value (.slice (some ⟨g, 0, none⟩) 32 32)) w := by
  unfold execOp
  simp only [ho, hx, Option.map_none, Sem.run_bind, Sem.run_pure, run_slice23]
  rfl
theorem DAt.of_row {w : World} {g a : Nat} (h : RAt w g [a]) : DAt w g (enc a) := by
  obtain ⟨t, ht⟩ := h
  exact ⟨t, by rw [← encs_one]; exact ht⟩
theorem restN (a : Nat) (ha : a < TT) (w : World) (g : Nat) (h : RAt w g [a]) : Calls Try.prog 91 #[.slice (some ⟨g, 0, none⟩) 32 32] w (Gives (vN (a % lN)) w) := by
  have e := rest_any (enc a) g w (by rw [enc_len]; omega) (DAt.of_row h)
  rw [← nv_leb _ (enc_len a), nv_enc a ha] at e
  exact e

set_option maxHeartbeats 4000000 in
theorem sAdd_core (a b ra rb r : Nat) (w : World)
    (C1 : Hid (∀ (w : World) (g : Nat), RAt w g [a] → Calls Try.prog 91 #[.slice (some ⟨g, 0, none⟩) 32 32] w (Gives (vN ra) w))) (C2 : Hid (∀ (w : World) (g : Nat), RAt w g [b] → Calls Try.prog 91 #[.slice (some ⟨g, 0, none⟩) 32 32] w (Gives (vN rb) w)))
    (C3 : Hid (∀ w, Calls Try.prog 90 #[vN ra, vN rb] w (Gives (vN r) w))) :
    Calls Try.prog 58 #[vN a, vN b] w (Gives (vN r) w) := by
  have HF_0 : Hid (Below w.heap.size w w) := Lib.hid (Below.refl _ _)
  go_enter Try.func58, Try.ntmps58
  go_wp2_with (first | ((with_reducible show wpList _ _ _ (⟨some 2, .box 23 (.tmp 0), _, _, _, _⟩ :: _) _ _); go_must (refine wpList_box_row rfl 23 (.tmp 0) rfl (bcs (enc a)).toArray rfl ?_; intro u1 ha1 hza1 hga1; have Nga_1 : Hid (RAt u1 w.heap.size [a]) := Lib.hid (NAt.row ⟨_, ha1⟩); have HF_1 : Hid (Below w.heap.size w u1) := Lib.hid (HF_0.out.grown hga1 HF_0.out.size (by simp)); have HGE1 : Hid (w.heap.size ≤ w.heap.size) := Lib.hid HF_0.out.size; clear ha1 hza1 hga1 HF_0)) | ((with_reducible show wpList _ _ _ (⟨some 3, .box 23 (.tmp 1), _, _, _, _⟩ :: _) _ _); go_must (refine wpList_box_row rfl 23 (.tmp 1) rfl (bcs (enc b)).toArray rfl ?_; intro u2 ha2 hza2 hga2; have Nga_2 := Lib.hid (Nga_1.out.grown hga2 (by simp)); have Ngb_2 : Hid (RAt u2 u1.heap.size [b]) := Lib.hid (NAt.row ⟨_, ha2⟩); have HF_2 : Hid (Below w.heap.size w u2) := Lib.hid (HF_1.out.grown hga2 HF_1.out.size (by simp)); have HNE2_0 : Hid (w.heap.size ≠ u1.heap.size) := Lib.hid (by have := Nga_1.out.lt; omega); have HGE2 : Hid (w.heap.size ≤ u1.heap.size) := Lib.hid HF_1.out.size; clear ha2 hza2 hga2 Nga_1 HF_1)) | ((with_reducible show wpList _ _ _ (⟨some 4, .alloc 23, _, _, _, _⟩ :: _) _ _); go_must (refine wpList_alloc_row rfl 23 rfl (.agg (zbs 32)) zero23 ?_; intro u3 ha3 hza3 hga3; have Nga_3 := Lib.hid (Nga_2.out.grown hga3 (by simp)); have Ngb_3 := Lib.hid (Ngb_2.out.grown hga3 (by simp)); have Ngr_3 : Hid (RAt u3 u2.heap.size [0]) := Lib.hid (zrow (k := 1) ha3); have HF_3 : Hid (Below w.heap.size w u3) := Lib.hid (HF_2.out.grown hga3 HF_2.out.size (by simp)); have HNE3_1 : Hid (w.heap.size ≠ u2.heap.size) := Lib.hid (by have := Nga_2.out.lt; omega); have HNE3_2 : Hid (u1.heap.size ≠ u2.heap.size) := Lib.hid (by have := Ngb_2.out.lt; omega); have HGE3 : Hid (w.heap.size ≤ u2.heap.size) := Lib.hid HF_2.out.size; clear ha3 hza3 hga3 Nga_2 Ngb_2 HF_2)) | fail)
  generalize u1.heap.size = gb at *
  generalize u2.heap.size = gr at *
  have HLT4_0 : Hid (w.heap.size < u3.heap.size) := Lib.hid Nga_3.out.lt
  have HLT4_1 : Hid (gb < u3.heap.size) := Lib.hid Ngb_3.out.lt
  have HLT4_2 : Hid (gr < u3.heap.size) := Lib.hid Ngr_3.out.lt
  have HLO4 : Hid (w.heap.size ≤ u3.heap.size) := Lib.hid HF_3.out.size
  refine region_split (fun a' W => RAt W w.heap.size [a] ∧ RAt W gb [b] ∧ RAt W gr [r] ∧ Below w.heap.size w W ∧ a' = ⟨#[vN a, vN b, .pointer (some ⟨w.heap.size, 0, none⟩), .pointer (some ⟨gb, 0, none⟩), .pointer (some ⟨gr, 0, none⟩), .slice (some ⟨w.heap.size, 0, none⟩) 32 32, vN ra, .slice (some ⟨gb, 0, none⟩) 32 32, vN rb, vN r], []⟩) ?_ ?_
  · refine startW (fun j => j == 5) (u3.heap.size) (by kernel_rfl) ?_
    obtain ⟨D4, hD4⟩ : ∃ D, D = u3.drew := ⟨_, rfl⟩
    rw [← hD4]
    have HL_4 : Hid (u3.heap.size ≤ D4.heap.size) := Lib.hid (by rw [hD4]; exact Nat.le_refl _)
    have Nga_4 : Hid (RAt D4 w.heap.size [a]) := Lib.hid (by rw [hD4]; exact Nga_3.out)
    have Ngb_4 : Hid (RAt D4 gb [b]) := Lib.hid (by rw [hD4]; exact Ngb_3.out)
    have Ngr_4 : Hid (RAt D4 gr [0]) := Lib.hid (by rw [hD4]; exact Ngr_3.out)
    have HF_4 : Hid (Below w.heap.size w D4) := Lib.hid (by rw [hD4]; exact below_drewN' HF_3.out 1)
    clear hD4 Nga_3 Ngb_3 Ngr_3 HF_3
    refine takeAE (i := 0) (oi := { dst := some 5, op := Op.slice 23 (Operand.tmp 2) none none none, type := 55, pos := "ref.go:74", after := #[], guard := none }) rfl (by kernel_rfl) (by kernel_rfl) (by kernel_rfl) (fun _ _ _ _ h => nomatch h.1) (by rfl) ?_
    refine ⟨.slice (some ⟨w.heap.size, 0, none⟩) 32 32, fun w' => exec_slice23 (.tmp 2) rfl _ rfl, ?_⟩
    simp only [Act.put, List.setIfInBounds_toArray, List.set_cons_zero, List.set_cons_succ]
    refine takeAE (i := 2) (oi := { dst := some 7, op := Op.slice 23 (Operand.tmp 3) none none none, type := 55, pos := "ref.go:74", after := #[], guard := none }) rfl (by kernel_rfl) (by kernel_rfl) (by kernel_rfl) (fun _ _ _ _ h => nomatch h.1) (by rfl) ?_
    refine ⟨.slice (some ⟨gb, 0, none⟩) 32 32, fun w' => exec_slice23 (.tmp 3) rfl _ rfl, ?_⟩
    simp only [Act.put, List.setIfInBounds_toArray, List.set_cons_zero, List.set_cons_succ]
    refine callW (i := 1) (oi := { dst := some 6, op := Op.call { callee := Callee.value (Operand.func 91), args := #[Operand.tmp 5], argTypes := #[55] }, type := 23, pos := "ref.go:74", after := #[{ on := 0, ground := Ground.data }], guard := none }) rfl (by kernel_rfl) (by rfl) (exec_callL 91 [.tmp 5] #[55] rfl [.slice (some ⟨w.heap.size, 0, none⟩) 32 32] rfl (CG91 _)) (((fun _ => C1.out _ _ Nga_4.out) D4).mono ?_)
    rintro e5 W5 ⟨rfl, hb5⟩
    refine ⟨_, rfl, fun _ => hb5.mono HL_4.out, ?_⟩
    have Nga_5 := Lib.hid (Nga_4.out.keep hb5)
    have Ngb_5 := Lib.hid (Ngb_4.out.keep hb5)
    have Ngr_5 := Lib.hid (Ngr_4.out.keep hb5)
    have HF_5 : Hid (Below w.heap.size w W5) := Lib.hid (HF_4.out.trans (hb5.mono HF_4.out.size))
    have HL_5 : Hid (u3.heap.size ≤ W5.heap.size) := Lib.hid (Nat.le_trans HL_4.out hb5.size)
    clear hb5 HL_4 Nga_4 Ngb_4 Ngr_4 HF_4
    simp only [Act.put, List.setIfInBounds_toArray, List.set_cons_zero, List.set_cons_succ]
    refine callW (i := 3) (oi := { dst := some 8, op := Op.call { callee := Callee.value (Operand.func 91), args := #[Operand.tmp 7], argTypes := #[55] }, type := 23, pos := "ref.go:74", after := #[{ on := 2, ground := Ground.data }, { on := 1, ground := Ground.chain }], guard := none }) rfl (by kernel_rfl) (by rfl) (exec_callL 91 [.tmp 7] #[55] rfl [.slice (some ⟨gb, 0, none⟩) 32 32] rfl (CG91 _)) (((fun _ => C2.out _ _ Ngb_5.out) W5).mono ?_)
    rintro e6 W6 ⟨rfl, hb6⟩
    refine ⟨_, rfl, fun _ => hb6.mono HL_5.out, ?_⟩
    have Nga_6 := Lib.hid (Nga_5.out.keep hb6)
    have Ngb_6 := Lib.hid (Ngb_5.out.keep hb6)
    have Ngr_6 := Lib.hid (Ngr_5.out.keep hb6)
    have HF_6 : Hid (Below w.heap.size w W6) := Lib.hid (HF_5.out.trans (hb6.mono HF_5.out.size))
    have HL_6 : Hid (u3.heap.size ≤ W6.heap.size) := Lib.hid (Nat.le_trans HL_5.out hb6.size)
    clear hb6 HL_5 Nga_5 Ngb_5 Ngr_5 HF_5
    simp only [Act.put, List.setIfInBounds_toArray, List.set_cons_zero, List.set_cons_succ]
    refine callW (i := 4) (oi := { dst := some 9, op := Op.call { callee := Callee.value (Operand.func 90), args := #[Operand.tmp 6, Operand.tmp 8], argTypes := #[23, 23] }, type := 23, pos := "ref.go:74", after := #[{ on := 1, ground := Ground.data }, { on := 3, ground := Ground.data }, { on := 3, ground := Ground.chain }], guard := none }) rfl (by kernel_rfl) (by rfl) (exec_callL 90 [.tmp 6, .tmp 8] #[23, 23] rfl [vN ra, vN rb] rfl (CG90 _)) ((C3.out W6).mono ?_)
    rintro e7 W7 ⟨rfl, hb7⟩
    refine ⟨_, rfl, fun _ => hb7.mono HL_6.out, ?_⟩
    have Nga_7 := Lib.hid (Nga_6.out.keep hb7)
    have Ngb_7 := Lib.hid (Ngb_6.out.keep hb7)
    have Ngr_7 := Lib.hid (Ngr_6.out.keep hb7)
    have HF_7 : Hid (Below w.heap.size w W7) := Lib.hid (HF_6.out.trans (hb7.mono HF_6.out.size))
    have HL_7 : Hid (u3.heap.size ≤ W7.heap.size) := Lib.hid (Nat.le_trans HL_6.out hb7.size)
    clear hb7 HL_6 Nga_6 Ngb_6 Ngr_6 HF_6
    simp only [Act.put, List.setIfInBounds_toArray, List.set_cons_zero, List.set_cons_succ]
    refine storeW_F (i := 5) (oi := { dst := none, op := Op.store 23 (Operand.tmp 4) (Operand.tmp 9), type := 0, pos := "ref.go:74", after := #[{ on := 4, ground := Ground.data }, { on := 4, ground := Ground.chain }, { on := 0, ground := Ground.phase }, { on := 1, ground := Ground.phase }, { on := 2, ground := Ground.phase }, { on := 3, ground := Ground.phase }, { on := 4, ground := Ground.phase }], guard := none }) rfl (by kernel_rfl) (by rfl) (.tmp 4) (.tmp 9) rfl (gr) 0 0 rfl [0] r rfl rfl Ngr_7.out (show 0 < 1 by omega) rfl ?_
    intro W8 hr8 hg8 hz8
    simp only [Act.put, List.setIfInBounds_toArray, List.set_cons_zero, List.set_cons_succ]
    have Nga_8 := Lib.hid (Nga_7.out.grown hg8 (by have := HNE3_1.out; simp; omega))
    have Ngb_8 := Lib.hid (Ngb_7.out.grown hg8 (by have := HNE3_2.out; simp; omega))
    have Ngr_8 : Hid (RAt W8 gr [r]) := Lib.hid hr8
    have HF_8 : Hid (Below w.heap.size w W8) := Lib.hid (HF_7.out.grown hg8 HF_7.out.size (fun r hr => by injection hr with hr; have := HGE3.out; omega))
    have HL_8 : Hid (u3.heap.size ≤ W8.heap.size) := Lib.hid (Nat.le_trans HL_7.out hg8.size)
    clear hr8 hg8 hz8 HL_7 Nga_7 Ngb_7 Ngr_7 HF_7
    refine doneW (by kernel_rfl) ⟨rfl, ?_⟩ _
    exact ⟨Nga_8.out, Ngb_8.out, Ngr_8.out, HF_8.out, rfl⟩
  rintro a' v9 ⟨h0, h1, h2, hF, rfl⟩
  have Nga_9 := Lib.hid h0
  have Ngb_9 := Lib.hid h1
  have Ngr_9 := Lib.hid h2
  have HF_9 := Lib.hid hF
  clear h0 h1 h2 hF HLT4_0 HLT4_1 HLT4_2 HLO4 Nga_3 Ngb_3 Ngr_3 HF_3
  go_wp2_with fail
  obtain ⟨tr, htr⟩ := Ngr_9.out
  refine bodyPost_ret (results_cell_row rfl _ _ gr tr (bcs (encs [r])).toArray _ _ rfl htr under23 rfl (by rw [List.size_toArray, bcs_len, encs_len]; exact size23)) rfl ?_
  exact ⟨by rw [← vR_one]; rfl, HF_9.out⟩
theorem sAdd_any (a b : Nat) (ha : a < TT) (hb : b < TT) (w : World) : Calls Try.prog 58 #[vN a, vN b] w (Gives (vN ((a + b) % lN)) w) := by
  rw [Nat.add_mod]
  have h1 := one_lt_L
  exact sAdd_core a b _ _ _ w (Lib.hid (restN a ha)) (Lib.hid (restN b hb)) (Lib.hid (splus_any _ _ (Nat.mod_lt _ (by omega)) (Nat.mod_lt _ (by omega))))
end Go.Proofs.Ytgdimnbdnepbgaa
/- The reference's words: ten of 26 and 25 bits. No statement is proved here. -/
namespace Go.Proofs.Ytgdimnbdnepbgaa
open Go.RowKit
set_option linter.unusedVariables false
set_option maxRecDepth 40000
set_option linter.unusedSimpArgs false

/-- One word as a cell. -/
def ic (n : Nat) : Value := .int .i64 (n : Int)
def ics (l : List Nat) : List Value := l.map ic
theorem ics_len (l : List Nat) : (ics l).length = l.length := List.length_map ..
theorem ics_one (l : List Nat) : ∀ u ∈ ics l, u.oneCell' = true := by
  intro u hu
  obtain ⟨b, _, rfl⟩ := List.mem_map.1 hu
  rfl
theorem ics_get (l : List Nat) (i : Nat) : (ics l)[i]? = l[i]?.map ic := List.getElem?_map ..
theorem ics_set (l : List Nat) (j x : Nat) : (ics l).toArray.setIfInBounds j (.int .i64 (x : Int)) = (ics (l.set j x)).toArray := by
  apply Array.toList_inj.1
  rw [Array.toList_setIfInBounds]
  simp [ics, ic, List.map_set]
theorem iword_cell {w : World} {g : Nat} {t : TypeId} {l : List Nat} (h : w.heap[g]? = some (.cells (ics l).toArray t (0, 0))) (i : Nat) (hi : i < l.length) : w.cell? ⟨g, i, none⟩ = some (.int .i64 (l.getD i 0 : Nat)) := by
  refine row_cells h i _ ?_
  rw [List.toList_toArray, ics_get, List.getD_eq_getElem?_getD, List.getElem?_eq_getElem hi]
  rfl
/-- Ten words lie in row g. -/
def IAt (w : World) (g : Nat) (o : List Nat) : Prop := o.length = 10 ∧ ∃ t, w.heap[g]? = some (.cells (ics o).toArray t (0, 0))
theorem IAt.lt {w : World} {g : Nat} {o : List Nat} (h : IAt w g o) : g < w.heap.size := by
  obtain ⟨_, t, ht⟩ := h
  exact (Array.getElem?_eq_some_iff.1 ht).1
theorem IAt.cell {w : World} {g : Nat} {o : List Nat} (h : IAt w g o) (i : Nat) (hi : i < 10) : w.cell? ⟨g, i, none⟩ = some (.int .i64 (o.getD i 0 : Nat)) := by
  obtain ⟨hl, t, ht⟩ := h
  exact iword_cell ht i (by omega)
theorem IAt.keep {w w' : World} {g : Nat} {o : List Nat} (h : IAt w g o) (hb : Below w.heap.size w w') : IAt w' g o := by
  have := h.lt
  obtain ⟨hl, t, ht⟩ := h
  exact ⟨hl, t, (hb.block g this).trans ht⟩
theorem IAt.grown {w w' : World} {g : Nat} {o : List Nat} {row : Option Nat} (h : IAt w g o) (hb : w.grownBy w' row) (hg : some g ≠ row) : IAt w' g o := by
  have := h.lt
  obtain ⟨hl, t, ht⟩ := h
  exact ⟨hl, t, (hb.block g this hg).trans ht⟩
theorem size2 : (Try.prog.info? 2).map (·.size) = some 1 := by kernel_rfl
theorem under65 : Try.prog.underlying 65 = some (.array 10 2) := by kernel_rfl
theorem size65 : (Try.prog.info? 65).map (·.size) = some 10 := by kernel_rfl
def ziw : Array Value := (ics (List.replicate 10 0)).toArray
theorem zero65 (w : World) : (zeroValue 65).run Try.prog w = .ok (.agg ziw) w := by kernel_rfl

/-- How many bits word i has. -/
def b10 (i : Nat) : Nat := if i % 2 = 0 then 26 else 25
theorem bits_any (i : Nat) (h : i < 10) (w : World) : Calls Try.prog 95 #[.int .i64 (i : Nat)] w fun e w' => e = .returned (.int .u64 (b10 i : Nat)) ∧ w' = w := by
  have hi : i = 0 ∨ i = 1 ∨ i = 2 ∨ i = 3 ∨ i = 4 ∨ i = 5 ∨ i = 6 ∨ i = 7 ∨ i = 8 ∨ i = 9 := by omega
  rcases hi with rfl | rfl | rfl | rfl | rfl | rfl | rfl | rfl | rfl | rfl <;>
  · go_enter Try.func95, Try.ntmps95
    go_wp2
    go_ret
    exact ⟨rfl, rfl⟩
theorem bits_even (i : Nat) (h : i < 10) (he : i % 2 = 0) (w : World) : Calls Try.prog 95 #[.int .i64 (i : Nat)] w fun e w' => e = .returned (.int .u64 26) ∧ w' = w := by
  have h := bits_any i h w
  rw [show b10 i = 26 from by unfold b10; rw [if_pos he]] at h
  exact h
theorem bits_odd (i : Nat) (h : i < 10) (he : i % 2 = 1) (w : World) : Calls Try.prog 95 #[.int .i64 (i : Nat)] w fun e w' => e = .returned (.int .u64 25) ∧ w' = w := by
  have h := bits_any i h w
  rw [show b10 i = 25 from by unfold b10; rw [if_neg (by omega)]] at h
  exact h
end Go.Proofs.Ytgdimnbdnepbgaa
/- The reference's product of scalars. No statement is proved here. -/
namespace Go.Proofs.Ytgdimnbdnepbgaa
open Go.RowKit
set_option linter.unusedVariables false
set_option maxRecDepth 40000
set_option linter.unusedSimpArgs false

theorem under55 : Try.prog.underlying 55 = some (.slice 5) := by kernel_rfl
theorem info5 : (Try.prog.info? 5).map (fun i => (i.zero, i.size, i.bytes)) = some (some (.int .u8 0), 1, 1) := by kernel_rfl
theorem made_zero (n : Nat) : madeCells (Value.int .u8 0).cells n = zbs n := by
  apply Array.ext
  · simp [madeCells, zbs, bcs]
  · intro i h1 h2
    simp [madeCells, zbs, bcs, bc, Value.cells, Nat.mod_one]
/-- A slice of bytes is made. -/
theorem wpList_makeB {ops : Array Oper} {rest : List Oper} {o : Oper} {a : Act} {w : World} {Q : Exit → Act → World → Prop} (hgd : Region.wanted o (yielded ops a.tmps) = true) (x y : Operand) (ho : o.op = .makeSlice 55 x y) (n : Nat) (hx : a.eval x = .int .i64 (n : Int)) (hy : a.eval y = .int .i64 (n : Int)) (hc : n ≤ 1099511627776)
    (h : ∀ w', w'.heap[w.heap.size]? = some (.cells (zbs n) 5 (0, 0)) → w'.heap.size = w.heap.size + 1 → w.grownBy w' none → wpList Try.prog ops Q rest (a.put o.dst (.slice (some ⟨w.heap.size, 0, none⟩) n n)) w') :
    wpList Try.prog ops Q (o :: rest) a w := by
  obtain ⟨i0, hi, hq⟩ : ∃ i, Try.prog.info? 5 = some i ∧ (i.zero, i.size, i.bytes) = (some (.int .u8 0), 1, 1) := by
    have h := info5
    cases hj : Try.prog.info? 5 with
    | none => rw [hj] at h; simp at h
    | some i => exact ⟨i, rfl, by rw [hj] at h; simpa using h⟩
  obtain ⟨hz0, hz1, hz2⟩ : i0.zero = some (.int .u8 0) ∧ i0.size = 1 ∧ i0.bytes = 1 := by simpa using hq
  have hr := run_make (P := Try.prog) w 55 5 i0 (.int .u8 0) under55 hi hz0 .i64 .i64 n n (by omega) (by omega) (by rw [hz2]; omega) (by omega)
  refine wpList_exec hgd _ (w' := w.alloc (.cells (zbs n) 5)) ?_ (h _ (heap_alloc_new w _) (by simp) (World.grownBy_alloc w _ none))
  unfold execOp
  simp only [ho, hx, hy, Sem.run_bind, Sem.run_pure, Result.andThen_ok, hr]
  simp [hz1, made_zero]
theorem size3 : (Try.prog.info? 3).map (·.size) = some 1 := by kernel_rfl
def zi64 : Array Value := (ics (List.replicate 64 0)).toArray
theorem zero89 (w : World) : (zeroValue 89).run Try.prog w = .ok (.agg zi64) w := by kernel_rfl
/-- Words lie in row g. -/
def JAt (w : World) (g : Nat) (o : List Nat) : Prop := ∃ t, w.heap[g]? = some (.cells (ics o).toArray t (0, 0))
theorem JAt.lt {w : World} {g : Nat} {o : List Nat} (h : JAt w g o) : g < w.heap.size := by
  obtain ⟨t, ht⟩ := h
  exact (Array.getElem?_eq_some_iff.1 ht).1
theorem JAt.cell {w : World} {g : Nat} {o : List Nat} (h : JAt w g o) (i : Nat) (hi : i < o.length) : w.cell? ⟨g, i, none⟩ = some (.int .i64 (o.getD i 0 : Nat)) := by
  obtain ⟨t, ht⟩ := h
  exact iword_cell ht i hi
theorem JAt.grown {w w' : World} {g : Nat} {o : List Nat} {row : Option Nat} (h : JAt w g o) (hb : w.grownBy w' row) (hg : some g ≠ row) : JAt w' g o := by
  have := h.lt
  obtain ⟨t, ht⟩ := h
  exact ⟨t, (hb.block g this hg).trans ht⟩
/-- The memory of Mul. -/
structure Mr (w : World) (a b : List UInt8) (p : List Nat) (w' : World) : Prop where
  ab : Ab w a b w'
  res : RAt w' (w.heap.size + 2) [0]
  p : JAt w' (w.heap.size + 3) p
theorem Mr.drew1 {w : World} {a b : List UInt8} {p : List Nat} {w' : World} (h : Mr w a b p w') : Mr w a b p { heap := w'.heap, tape := w'.tape, drawn := w'.drawn + 1, os := w'.os, output := w'.output } :=
  ⟨h.ab.drew1, h.res, h.p⟩
theorem Mr.start {w w2 w3 w4 : World} {a b : List UInt8} (h : Ab w a b w2) (z2 : w2.heap.size = w.heap.size + 2)
    (h3 : w3.heap[w2.heap.size]? = some (.cells (zbs 32) 23 (0, 0))) (z3 : w3.heap.size = w2.heap.size + 1) (g3 : w2.grownBy w3 none)
    (h4 : w4.heap[w3.heap.size]? = some (.cells zi64 89 (0, 0))) (g4 : w3.grownBy w4 none) : Mr w a b (List.replicate 64 0) w4 := by
  have b3 := below_of_grownBy g3
  have b4 := below_of_grownBy g4
  rw [z2] at h3 z3
  rw [z3] at h4 b4
  have h2 : Ab w a b w4 := ⟨((h.a.keep b3).keep (by rw [z3]; exact b4)), ((h.b.keep b3).keep (by rw [z3]; exact b4)), h.bel.trans ((b3.mono h.bel.size).trans (b4.mono (by omega)))⟩
  exact ⟨h2, (zrow (k := 1) h3).grown g4 (by simp), ⟨89, h4⟩⟩
theorem Mr.set {w : World} {a b : List UInt8} {p p' : List Nat} {w' w'' : World} {t : TypeId} (h : Mr w a b p w') (hg : w'.grownBy w'' (some (w.heap.size + 3))) (hh : w''.heap[w.heap.size + 3]? = some (.cells (ics p').toArray t (0, 0))) : Mr w a b p' w'' :=
  ⟨⟨h.ab.a.grown hg (by simp), h.ab.b.grown hg (by simp), h.ab.bel.grown hg h.ab.bel.size (fun r hr => by injection hr; omega)⟩, h.res.grown hg (by simp), ⟨t, hh⟩⟩
/-- The memory of Mul when its bytes are written. -/
structure Ms (w : World) (g : Nat) (p : List Nat) (o : List UInt8) (w' : World) : Prop where
  hg : w.heap.size + 4 ≤ g
  res : RAt w' (w.heap.size + 2) [0]
  p : JAt w' (w.heap.size + 3) p
  o : DAt w' g o
  bel : Below w.heap.size w w'
theorem Ms.start {w : World} {a b : List UInt8} {p : List Nat} {u x : World} (h : Mr w a b p u) (hx : x.heap[u.heap.size]? = some (.cells (zbs 64) 5 (0, 0))) (gx : u.grownBy x none) : Ms w u.heap.size p (List.replicate 64 0) x := by
  have hs := h.p.lt
  exact ⟨by omega, h.res.grown gx (by simp), h.p.grown gx (by simp), ⟨5, hx⟩, h.ab.bel.trans ((below_of_grownBy gx).mono h.ab.bel.size)⟩
theorem Ms.set {w : World} {g : Nat} {p : List Nat} {o o' : List UInt8} {w' w'' : World} {t : TypeId} (h : Ms w g p o w') (hg : w'.grownBy w'' (some g)) (hh : w''.heap[g]? = some (.cells (bcs o').toArray t (0, 0))) : Ms w g p o' w'' :=
  ⟨h.hg, h.res.grown hg (by have := h.hg; simp; omega), h.p.grown hg (by have := h.hg; simp; omega), ⟨t, hh⟩, h.bel.grown hg h.bel.size (fun r hr => by have := h.hg; injection hr; omega)⟩
set_option maxHeartbeats 4000000 in
theorem sMul_core (a b : List UInt8) (V : Nat) (w : World) (HA : Hid (a.length = 32)) (HB : Hid (b.length = 32)) (HV : Hid (leb a * leb b = V))
    (CR : Hid (∀ l : List UInt8, l.length = 64 → ∀ (w : World) (g : Nat), DAt w g l → Calls Try.prog 91 #[.slice (some ⟨g, 0, none⟩) 64 64] w (Gives (vN (leb l % lN)) w))) :
    Calls Try.prog 59 #[.agg (bcs a).toArray, .agg (bcs b).toArray] w (Gives (vN (V % lN)) w) := by
  go_enter Try.func59, Try.ntmps59
  go_wp2_with (first | ((with_reducible show wpList _ _ _ (⟨some 2, .box 23 (.tmp 0), _, _, _, _⟩ :: _) _ _); go_must (refine wpList_box_row rfl 23 (.tmp 0) rfl (bcs a).toArray rfl ?_; intro w1 h1 z1 g1; have H1 := Lib.hid h1; have Z1 := Lib.hid z1; have G1 := Lib.hid g1; clear h1 z1 g1)) | ((with_reducible show wpList _ _ _ (⟨some 3, .box 23 (.tmp 1), _, _, _, _⟩ :: _) _ _); go_must (refine wpList_box_row rfl 23 (.tmp 1) rfl (bcs b).toArray rfl ?_; intro w2 h1 z1 g1; have H2 := Lib.hid h1; have Z2 := Lib.hid z1; have G2 := Lib.hid g1; clear h1 z1 g1)) | ((with_reducible show wpList _ _ _ (⟨some 4, .alloc 23, _, _, _, _⟩ :: _) _ _); go_must (refine wpList_alloc_row rfl 23 rfl (.agg (zbs 32)) zero23 ?_; intro w3 h1 z1 g1; have H3 := Lib.hid h1; have Z3 := Lib.hid z1; have G3 := Lib.hid g1; clear h1 z1 g1)) | ((with_reducible show wpList _ _ _ (⟨some 5, .alloc 89, _, _, _, _⟩ :: _) _ _); go_must (refine wpList_alloc_row rfl 89 rfl (.agg zi64) zero89 ?_; intro w4 h1 z1 g1; have H4 := Lib.hid h1; have Z4 := Lib.hid z1; have G4 := Lib.hid g1; clear h1 z1 g1)) | fail)
  have S : Hid (Mr w a b (List.replicate 64 0) w4) := Lib.hid (Mr.start (Ab.start HA.out HB.out H1.out Z1.out G1.out H2.out G2.out) (by rw [Z2.out, Z1.out]) H3.out Z3.out G3.out H4.out G4.out)
  rw [show w3.heap.size = w.heap.size + 3 from by rw [Z3.out, Z2.out, Z1.out], show w2.heap.size = w.heap.size + 2 from by rw [Z2.out, Z1.out], show w1.heap.size = w.heap.size + 1 from Z1.out]
  clear H1 Z1 G1 H2 Z2 G2 H3 Z3 G3 H4 Z4 G4
  go_loopw [6, 7] (fun i _ wr => ∃ n : Nat, ∃ p : List Nat, n ≤ 32 ∧ i = .int .i64 n ∧ p.length = 64 ∧ Hid (pval p = leb (a.take n) * leb b + 256 ^ n * (a.getD n 0).toNat * leb (b.take 0)) ∧ Hid (∀ j, p.getD j 0 ≤ 32 * n * 65025) ∧ Mr w a b p wr) (fun i _ _ => 32 - (intOf i).toNat)
  case atStart => exact ⟨0, List.replicate 64 0, by omega, rfl, rfl, Lib.hid (by rw [pval_zero]; simp [leb]), Lib.hid (fun j => by rw [List.getD_eq_getElem?_getD, List.getElem?_replicate]; split <;> simp), S.out⟩
  case round =>
    obtain ⟨n, p, hn, rfl, hpl, HP, HPB, hp⟩ := hrel
    have H := Lib.hid hp
    have HPL := Lib.hid hpl
    clear hp S hpl
    by_cases hlt : n < 32
    · have hni : (n : Int) < 32 := by omega
      go_wp2_with fail
      go_loopw [7] (fun k wi => ∃ m : Nat, ∃ q : List Nat, m ≤ 32 ∧ k = .int .i64 m ∧ q.length = 64 ∧ Hid (pval q = leb (a.take n) * leb b + 256 ^ n * (a.getD n 0).toNat * leb (b.take m)) ∧ Hid (∀ j, q.getD j 0 ≤ (32 * n + m) * 65025) ∧ Mr w a b q wi) (fun k _ => 32 - (intOf k).toNat)
      case atStart => exact ⟨0, p, by omega, rfl, HPL.out, HP, Lib.hid HPB.out, H.out⟩
      case round =>
        obtain ⟨m, q, hm, rfl, hql, HQ, HQB, hq⟩ := hrel
        have H1 := Lib.hid hq
        have HQL := Lib.hid hql
        clear hq H HP HPB hql
        by_cases hlm : m < 32
        · have hmi : (m : Int) < 32 := by omega
          have HST := Lib.hid (mul_step q a b n m HQL.out hlt hlm HQ.out)
          have HXY := Lib.hid (byte_prod (a.getD n 0) (b.getD m 0))
          have HZ := Lib.hid (HQB.out (n + m))
          have ca := H1.out.ab.a.cell n (by omega)
          have cb := H1.out.ab.b.cell m (by omega)
          have cp := H1.out.p.cell (n + m) (by rw [HQL.out]; omega)
          have HY := Lib.hid (UInt8.toNat_lt (b.getD m 0))
          generalize (b.getD m 0).toNat = y at *
          generalize hx : (a.getD n 0).toNat = x at *
          have HX := Lib.hid hx
          clear hx
          generalize q.getD (n + m) 0 = z at *
          have HW : Hid (IntKind.i64.wrap ((n : Int) + (m : Int)) = ((n + m : Nat) : Int)) := Lib.hid (by rw [wrap_small _ (by omega) (by omega)]; omega)
          have hsl : n + m < 64 := by omega
          generalize n + m = s at *
          have hsi : (s : Int) < 64 := by omega
          go_wp2_with fail
          refine wp_region_still_tail 19 (by kernel_rfl) (by kernel_rfl) ?_
          simp only [List.take_succ_cons, List.take_zero, List.drop_succ_cons, List.drop_zero]
          have ca' : ({ heap := wr.heap, tape := wr.tape, drawn := wr.drawn + 1, os := wr.os, output := wr.output } : World).cell? ⟨w.heap.size, n, none⟩ = some (.int .u8 (x : Int)) := ca
          have cb' : ({ heap := wr.heap, tape := wr.tape, drawn := wr.drawn + 1, os := wr.os, output := wr.output } : World).cell? ⟨w.heap.size + 1, m, none⟩ = some (.int .u8 (y : Int)) := cb
          have cp' : ({ heap := wr.heap, tape := wr.tape, drawn := wr.drawn + 1, os := wr.os, output := wr.output } : World).cell? ⟨w.heap.size + 3, s, none⟩ = some (.int .i64 (z : Int)) := cp
          repeat still_step
          rw [HW.out]
          repeat still_step
          try refine wpStill_nil ?_
          have HVW : Hid (IntKind.i64.wrap ((z : Int) + IntKind.i64.wrap (IntKind.i64.wrap (x : Int) * IntKind.i64.wrap (y : Int))) = ((z + x * y : Nat) : Int)) := by
            have h1 := HXY.out
            have h2 := HZ.out
            have h3 : x < 256 := by rw [← HX.out]; exact UInt8.toNat_lt _
            rw [wrap_small (x : Int) (by omega) (by omega), wrap_small (y : Int) (by have := HY.out; omega) (by have := HY.out; omega), ← Int.natCast_mul]
            generalize x * y = xy at *
            rw [wrap_small (xy : Int) (by omega) (by omega), wrap_small _ (by omega) (by omega)]
            exact Lib.hid (by omega)
          rw [HVW.out]
          have HD : Hid (Mr w a b q { heap := wr.heap, tape := wr.tape, drawn := wr.drawn + 1, os := wr.os, output := wr.output }) := H1.out.drew1
          clear H1 ca cb cp ca' cb' cp' HVW HW
          obtain ⟨wd, hwd⟩ : ∃ v, v = ({ heap := wr.heap, tape := wr.tape, drawn := wr.drawn + 1, os := wr.os, output := wr.output } : World) := ⟨_, rfl⟩
          rw [← hwd] at HD
          rw [← hwd]
          clear hwd
          generalize x * y = xy at *
          obtain ⟨t, ht⟩ := HD.out.p
          have HT := Lib.hid ht
          clear ht
          refine wpList_store_one rfl 3 (.tmp 37) (.tmp 36) rfl (w.heap.size + 3) s rfl .i64 _ rfl t _ HT.out size3 (by simp only [List.size_toArray, ics_len]; have := HQL.out; omega) ?_
          intro w5 hh hg hz
          rw [ics_set] at hh
          have H2 := Lib.hid (HD.out.set hg hh)
          clear hh hg hz HD HT
          go_wp2_with fail
          exact ⟨⟨m + 1, _, by omega, by go_num, by rw [List.length_set]; exact HQL.out, HST, Lib.hid (set_bound _ _ _ _ _ HQB.out (by have := HXY.out; have := HZ.out; omega) (by omega)), H2.out⟩, by simp [intOf]; omega⟩
        · obtain rfl : m = 32 := by omega
          go_wp2_with fail
          exact ⟨⟨n + 1, q, by omega, by go_num, HQL.out, Lib.hid (by rw [HQ.out]; exact mul_row a b n HB.out), Lib.hid (fun j => Nat.le_trans (HQB.out j) (by omega)), H1.out⟩, by simp [intOf]; omega⟩
    · obtain rfl : n = 32 := by omega
      have HPV : Hid (pval p = V) := Lib.hid (by
        have h := HP.out
        rw [leb_take_all a 32 HA.out, HV.out] at h
        simpa [leb] using h)
      clear HP
      go_wp2_with (first | (at_make; refine wpList_makeB rfl _ _ rfl 64 rfl rfl (by omega) ?_; intro y1 hh1 hz1 hg1; have SM := Lib.hid (Ms.start H.out hh1 hg1); clear hh1 hz1 hg1) | fail)
      generalize wr.heap.size = g at *
      go_loopw [9, 10] (fun c i wz => ∃ n k : Nat, ∃ o : List UInt8, n ≤ 64 ∧ k ≤ 66585600 ∧ c = .int .i64 k ∧ i = .int .i64 n ∧ o.length = 64 ∧ Hid (leb (o.take n) + 256 ^ n * k = pval (p.take n)) ∧ Ms w g p o wz) (fun _ i _ => 64 - (intOf i).toNat)
      case atStart => exact ⟨0, 0, List.replicate 64 0, by omega, by omega, rfl, rfl, rfl, Lib.hid (by simp [leb, pval]), SM.out⟩
      case round =>
        obtain ⟨n, k, o, hn, hk, rfl, rfl, hol, HO, hp⟩ := hrel
        have H1 := Lib.hid hp
        have HOL := Lib.hid hol
        clear hp SM hol H
        by_cases hlt : n < 64
        · have hni : (n : Int) < 64 := by omega
          have cp := H1.out.p.cell n (by rw [HPL.out]; exact hlt)
          have HZ := Lib.hid (HPB.out n)
          have HST : Hid (∀ v d, k + p.getD n 0 = v + 256 * d → leb (o.take n) + 256 ^ n * v + 256 ^ (n + 1) * d = pval (p.take (n + 1))) := Lib.hid fun v d e => by
            have h := add_step (leb (o.take n)) (pval (p.take n)) 0 (p.getD n 0) 0 k v d n (by rw [HO.out, Nat.add_zero]) (by omega)
            rw [pval_take_succ]
            omega
          generalize p.getD n 0 = z at *
          obtain ⟨t, ht⟩ := H1.out.o
          have HT := Lib.hid ht
          clear ht
          have hzi : (z : Int) ≤ 66585600 := by have := HZ.out; omega
          go_wp2_with (first | ((with_reducible show wpList _ _ _ (⟨none, .store 5 (.tmp 53) (.tmp 52), _, _, _, _⟩ :: _) _ _); go_must (refine wpList_store_one rfl 5 (.tmp 53) (.tmp 52) rfl g n rfl .u8 _ rfl t _ HT.out size5 (by simp only [List.size_toArray, bcs_len]; have := HOL.out; omega) ?_; intro w5 hh hg hz; have HH := Lib.hid hh; have HG := Lib.hid hg; clear hh hg hz)) | fail)
          have hh := HH.out
          rw [show (Value.int IntKind.u8 (((k : Int) + (z : Int)) % 256)) = bc (UInt8.ofNat ((k + z) % 256)) from by unfold bc; rw [of_byte, Nat.mod_mod]; rfl, bcs_put] at hh
          refine ⟨⟨n + 1, (k + z) / 256, _, by omega, by omega, by go_num, by go_num, by rw [List.length_set]; exact HOL.out, Lib.hid ?_, H1.out.set HG.out hh⟩, by simp [intOf]; omega⟩
          rw [leb_take_put _ _ _ (by have := HOL.out; omega), of_byte, Nat.mod_mod]
          exact HST.out ((k + z) % 256) ((k + z) / 256) (by omega)
        · obtain rfl : n = 64 := by omega
          have HOV : Hid (leb o = V) := Lib.hid (by
            have h := HO.out
            have h1 := leb_lt a
            have h2 := leb_lt b
            rw [leb_take_all o 64 HOL.out, show p.take 64 = p from by rw [← HPL.out, List.take_length], HPV.out] at h
            have h3 : V < 256 ^ 64 := by
              rw [← HV.out, show (256 : Nat) ^ 64 = 256 ^ 32 * 256 ^ 32 from by decide]
              rw [HA.out] at h1
              rw [HB.out] at h2
              exact Nat.mul_lt_mul'' h1 h2
            have h4 : k = 0 := by
              by_cases e : k = 0
              · exact e
              · exfalso
                have : 256 ^ 64 * 1 ≤ 256 ^ 64 * k := Nat.mul_le_mul_left _ (by omega)
                omega
            rw [h4] at h
            omega)
          have C := Lib.hid (CR.out o HOL.out)
          rw [HOV.out] at C
          go_wp2_with fail
          refine (C.out _ _ H1.out.o).mono ?_
          rintro e x7 ⟨rfl, hb⟩
          have HR := Lib.hid (H1.out.res.keep hb)
          have HF := Lib.hid (H1.out.bel.trans (hb.mono H1.out.bel.size))
          clear hb
          go_wp2_with (first | ((with_reducible show wpList _ _ _ (⟨none, .store 23 (.tmp 4) (.tmp 57), _, _, _, _⟩ :: _) _ _); go_must (refine wpList_storeF rfl (.tmp 4) (.tmp 57) rfl (w.heap.size + 2) 0 0 rfl [0] (V % lN) rfl rfl HR.out (show 0 < 1 by omega) ?_; intro y hr hg hz; have HR2 := Lib.hid hr; have HG2 := Lib.hid hg; clear hr hg hz)) | fail)
          obtain ⟨tr, htr⟩ := HR2.out
          refine bodyPost_ret (results_cell_row rfl _ _ (w.heap.size + 2) tr (bcs (encs [V % lN])).toArray _ _ rfl htr under23 rfl (by rw [List.size_toArray, bcs_len, encs_len]; exact size23)) rfl ?_
          exact ⟨by rw [← vR_one]; rfl, HF.out.grown HG2.out HF.out.size (fun r hr => by injection hr; omega)⟩
theorem sMul_any (a b : Nat) (ha : a < TT) (hb : b < TT) (w : World) : Calls Try.prog 59 #[vN a, vN b] w (Gives (vN (a * b % lN)) w) := by
  have e : ∀ n, n < TT → leb (enc n) = n := fun n hn => by rw [← nv_leb _ (enc_len n)]; exact nv_enc n hn
  refine sMul_core (enc a) (enc b) (a * b) w (Lib.hid (enc_len a)) (Lib.hid (enc_len b)) (Lib.hid (by rw [e a ha, e b hb])) (Lib.hid fun l hl w g h => ?_)
  have := rest_any l g w (by omega) h
  rw [hl] at this
  exact this
set_option maxHeartbeats 2000000 in
theorem sRest_core (a r g : Nat) (w : World) (HA : Hid (RAt w g [a])) (C1 : Hid (∀ (w : World) (g : Nat), RAt w g [a] → Calls Try.prog 91 #[.slice (some ⟨g, 0, none⟩) 32 32] w (Gives (vN r) w))) :
    Calls Try.prog 60 #[.slice (some ⟨g, 0, none⟩) 32 32] w (Gives (.tuple #[vN r, .int .i64 0]) w) := by
  go_enter Try.func60, Try.ntmps60
  go_wp2_with (first | ((with_reducible show wpList _ _ _ (⟨some 2, .alloc 23, _, _, _, _⟩ :: _) _ _); go_must (refine wpList_alloc_row rfl 23 rfl (.agg (zbs 32)) zero23 ?_; intro w1 h1 z1 g1; have R1 : Hid (RAt w1 w.heap.size [0]) := Lib.hid (zrow (k := 1) h1); have H1 := Lib.hid (HA.out.grown g1 (by simp)); have HF := Lib.hid (below_of_grownBy g1); clear h1 z1 g1)) | fail)
  refine (C1.out _ _ H1.out).mono ?_
  rintro e x7 ⟨rfl, hb⟩
  have R2 := Lib.hid (R1.out.keep hb)
  have HF2 := Lib.hid (HF.out.trans (hb.mono HF.out.size))
  clear hb R1 HF H1
  go_wp2_with (first | ((with_reducible show wpList _ _ _ (⟨none, .store 23 (.tmp 2) (.tmp 9), _, _, _, _⟩ :: _) _ _); go_must (refine wpList_storeF rfl (.tmp 2) (.tmp 9) rfl w.heap.size 0 0 rfl [0] r rfl rfl R2.out (show 0 < 1 by omega) ?_; intro y hr hg hz; have HR2 := Lib.hid hr; have HG2 := Lib.hid hg; clear hr hg hz)) | fail)
  obtain ⟨tr, htr⟩ := HR2.out
  exact bodyPost_ret (results_cell2 rfl _ _ w.heap.size tr (bcs (encs [r])).toArray (0, 0) _ rfl htr under23 rfl (by rw [List.size_toArray, bcs_len, encs_len]; exact size23)) rfl ⟨by rw [← vR_one]; rfl, HF2.out.grown HG2.out HF2.out.size (fun r hr => by injection hr; omega)⟩
theorem sRest_any (a : Nat) (ha : a < TT) (w : World) (g : Nat) (h : RAt w g [a]) : Calls Try.prog 60 #[.slice (some ⟨g, 0, none⟩) 32 32] w (Gives (.tuple #[vN (a % lN), .int .i64 0]) w) :=
  sRest_core a _ g w (Lib.hid h) (Lib.hid (restN a ha))
end Go.Proofs.Ytgdimnbdnepbgaa
/- The order of the base point: L is a prime, and a multiple is Zero only if L divides the number. No statement is proved here. -/
namespace Go.Proofs.Ytgdimnbdnepbgaa
set_option linter.unusedVariables false
set_option maxRecDepth 40000

theorem pr_531581 : Pr 531581 := trial 531581 728 (by decide) (by decide +kernel) (by decide)
theorem pr_1224481 : Pr 1224481 := trial 1224481 1105 (by decide) (by decide +kernel) (by decide)
theorem pr_1257559732178653 : Pr 1257559732178653 := pock2' 1257559732178653 531581 1224481 51 2365697292 1027014492 (by decide) pr_531581 pr_1224481 (by decide) (by decide) (by decide) (by decide) (by decide +kernel) (by decide +kernel) (by decide +kernel) (by decide +kernel) (by decide +kernel) (by decide)
theorem pr_4434155615661930479 : Pr 4434155615661930479 := pock1' 4434155615661930479 1257559732178653 62 3526 (by decide) pr_1257559732178653 (by decide) (by decide) (by decide +kernel) (by decide +kernel) (by decide +kernel) (by decide)
theorem pr_172054593956031949258510691 : Pr 172054593956031949258510691 := pock1' 172054593956031949258510691 4434155615661930479 88 38802110 (by decide) pr_4434155615661930479 (by decide) (by decide) (by decide +kernel) (by decide +kernel) (by decide +kernel) (by decide)
theorem pr_19757330305831588566944191468367130476339 : Pr 19757330305831588566944191468367130476339 := pock1' 19757330305831588566944191468367130476339 172054593956031949258510691 134 114831751082918 (by decide) pr_172054593956031949258510691 (by decide) (by decide) (by decide +kernel) (by decide +kernel) (by decide +kernel) (by decide)
theorem pr_276602624281642239937218680557139826668747 : Pr 276602624281642239937218680557139826668747 := pock1' 276602624281642239937218680557139826668747 19757330305831588566944191468367130476339 138 14 (by decide) pr_19757330305831588566944191468367130476339 (by decide) (by decide) (by decide +kernel) (by decide +kernel) (by decide +kernel) (by decide)
theorem pr_7237005577332262213973186563042994240857116359379907606001950938285454250989 : Pr 7237005577332262213973186563042994240857116359379907606001950938285454250989 := pock1' 7237005577332262213973186563042994240857116359379907606001950938285454250989 276602624281642239937218680557139826668747 253 26163907866482859529727157400808004 (by decide) pr_276602624281642239937218680557139826668747 (by decide) (by decide) (by decide +kernel) (by decide +kernel) (by decide +kernel) (by decide)
theorem pr_L : Pr lN := pr_7237005577332262213973186563042994240857116359379907606001950938285454250989
namespace Ed
variable {n : Nat} [NeZero n]
theorem sm_gcd (E : Ed n) (p : E.Pt) (x : Nat) : ∀ y, E.sm p x = E.zero → E.sm p y = E.zero → E.sm p (Nat.gcd x y) = E.zero := by
  induction x using Nat.strongRecOn with
  | ind x ih =>
    intro y hx hy
    by_cases h0 : x = 0
    · subst h0; rw [Nat.gcd_zero_left]; exact hy
    · rw [Nat.gcd_rec]
      refine ih (y % x) (Nat.mod_lt _ (by omega)) x ?_ hx
      have e : E.sm p (x * (y / x) + y % x) = E.zero := by rw [Nat.div_add_mod]; exact hy
      rw [E.sm_add, E.sm_mul, hx, E.sm_zero] at e
      rwa [E.zero_add] at e
end Ed
theorem bP_ne : bP ≠ EC.zero := fun h => sm_8 (by rw [h, EC.sm_zero])
theorem sm_rest (k : Nat) : EC.sm bP k = EC.sm bP (k % lN) := by
  have e : EC.sm bP (lN * (k / lN) + k % lN) = EC.sm bP k := by rw [Nat.div_add_mod]
  rw [← e, EC.sm_add, EC.sm_mul, sm_L, EC.sm_zero, EC.zero_add]
theorem sm_zero_iff (k : Nat) : EC.sm bP k = EC.zero ↔ k % lN = 0 := by
  constructor
  · intro h
    by_cases hd : lN ∣ k
    · exact Nat.mod_eq_zero_of_dvd hd
    · have g := pr_L.coprime hd
      have e := EC.sm_gcd bP lN k sm_L h
      rw [show Nat.gcd lN k = 1 from g, EC.sm_one] at e
      exact absurd e bP_ne
  · intro h
    rw [sm_rest, h]
    rfl
theorem sm_small (k : Nat) : EC.sm (EC.sm bP k) 8 = EC.zero ↔ EC.sm bP k = EC.zero := by
  constructor
  · intro h
    have hL : EC.sm (EC.sm bP k) lN = EC.zero := by rw [← EC.sm_mul, Nat.mul_comm, EC.sm_mul, sm_L, EC.sm_zero]
    have e := EC.sm_gcd _ 8 lN h hL
    rw [show Nat.gcd 8 lN = 1 by decide +kernel, EC.sm_one] at e
    exact e
  · intro h
    rw [h, EC.sm_zero]
end Go.Proofs.Ytgdimnbdnepbgaa
