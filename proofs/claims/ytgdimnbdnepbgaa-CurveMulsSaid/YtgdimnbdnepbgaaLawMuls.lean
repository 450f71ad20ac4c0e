/- It is proved that CurveMuls returns true for any two points, valid or not, and any two numbers: multiples fit sums of numbers and of points. Conditions: none. -/
import Derived.Test.YtgdimnbdnepbgaaRows
import Derived.Test.YtgdimnbdnepbgaaM5
import Derived.Test.YtgdimnbdnepbgaaM7
import Derived.ProofKit
import Derived.OpenShut
import Derived.ChangeOld
namespace Go.Proofs.Ytgdimnbdnepbgaa.curveMuls
open Go.ChangeShapes Go.WideShapes Go.ChangeAt Go.RowKit
set_option linter.unusedVariables false
set_option linter.unusedSimpArgs false

theorem own : ownKnob Try.prog.godebug = none := by kernel_rfl
theorem laidOut : laidOutB Try.prog = true := by kernel_rfl

theorem alloc_zeroP (w : World) : ∃ w', w' = w.alloc (.cells (Value.agg (zbs 64)).cells 35) ∧ Below w.heap.size w w' ∧ w'.heap[w.heap.size]? = some (.cells (zbs 64) 35 (0, 0)) := ⟨_, rfl, below_alloc _ _, heap_alloc_new _ _⟩
set_option maxHeartbeats 8000000 in
set_option maxRecDepth 100000 in
theorem muls_core (a b n m px py qx qy xx xy yx yy sx sy ux uy tx ty vx vy dx dy gx gy rx ry hx hy ix iy kx ky : Nat) (w : World)
    (C0 : Hid (∀ w, Calls Try.prog 38 #[] w (Gives (.bool true) w)))
    (C1 : Hid (∀ w, Calls Try.prog 40 #[vR [px, py]] w (Gives (.int .i64 0) w)))
    (C2 : Hid (∀ w, Calls Try.prog 40 #[vR [qx, qy]] w (Gives (.int .i64 0) w)))
    (C3 : Hid (∀ w, Calls Try.prog 41 #[vN a, vR [px, py]] w (Gives (vR [xx, xy]) w)))
    (C4 : Hid (∀ w, Calls Try.prog 41 #[vN b, vR [qx, qy]] w (Gives (vR [yx, yy]) w)))
    (C5 : Hid (∀ w, Calls Try.prog 53 #[vN a, vR [px, py], vN b, vR [qx, qy]] w (Gives (vR [sx, sy]) w)))
    (C6 : Hid (∀ w, Calls Try.prog 44 #[vR [xx, xy], vR [yx, yy]] w (Gives (vR [sx, sy]) w)))
    (C7 : Hid (∀ w, Calls Try.prog 44 #[vR [px, py], vR [qx, qy]] w (Gives (vR [ux, uy]) w)))
    (C8 : Hid (∀ w, Calls Try.prog 41 #[vN a, vR [ux, uy]] w (Gives (vR [tx, ty]) w)))
    (C9 : Hid (∀ w, Calls Try.prog 41 #[vN a, vR [qx, qy]] w (Gives (vR [vx, vy]) w)))
    (C10 : Hid (∀ w, Calls Try.prog 44 #[vR [xx, xy], vR [vx, vy]] w (Gives (vR [tx, ty]) w)))
    (C11 : Hid (∀ w, Calls Try.prog 41 #[vN 0, vR [px, py]] w (Gives (vR [0, 1]) w)))
    (C12 : Hid (∀ w, Calls Try.prog 39 #[] w (Gives (vR [0, 1]) w)))
    (C13 : Hid (∀ w, Calls Try.prog 41 #[vN 1, vR [px, py]] w (Gives (vR [px, py]) w)))
    (C14 : Hid (∀ w, Calls Try.prog 41 #[vN 2, vR [px, py]] w (Gives (vR [dx, dy]) w)))
    (C15 : Hid (∀ w, Calls Try.prog 44 #[vR [px, py], vR [px, py]] w (Gives (vR [dx, dy]) w)))
    (C16 : Hid (∀ w, Calls Try.prog 42 #[] w (Gives (vR [gx, gy]) w)))
    (C17 : Hid (∀ w, Calls Try.prog 58 #[vN a, vN b] w (Gives (vN n) w)))
    (C18 : Hid (∀ w, Calls Try.prog 41 #[vN n, vR [gx, gy]] w (Gives (vR [rx, ry]) w)))
    (C19 : Hid (∀ w, Calls Try.prog 41 #[vN a, vR [gx, gy]] w (Gives (vR [hx, hy]) w)))
    (C20 : Hid (∀ w, Calls Try.prog 41 #[vN b, vR [gx, gy]] w (Gives (vR [ix, iy]) w)))
    (C21 : Hid (∀ w, Calls Try.prog 44 #[vR [hx, hy], vR [ix, iy]] w (Gives (vR [rx, ry]) w)))
    (C22 : Hid (∀ w, Calls Try.prog 59 #[vN a, vN b] w (Gives (vN m) w)))
    (C23 : Hid (∀ w, Calls Try.prog 41 #[vN m, vR [gx, gy]] w (Gives (vR [kx, ky]) w)))
    (C24 : Hid (∀ w, Calls Try.prog 41 #[vN a, vR [ix, iy]] w (Gives (vR [kx, ky]) w))) :
    Calls Try.prog 7 #[vR [px, py], vR [qx, qy], vN a, vN b] w (Gives (.bool true) w) := by
  have HF_0 : Hid (Below w.heap.size w w) := Lib.hid (Below.refl _ _)
  go_enter Try.func7, Try.ntmps7
  go_wp2_with (first | ((with_reducible show wpList _ _ _ (⟨some 4, .box 35 (.tmp 0), _, _, _, _⟩ :: _) _ _); go_must (refine wpList_box_row rfl 35 (.tmp 0) rfl (bcs (encs [px, py])).toArray rfl ?_; intro u1 ha1 hza1 hga1; have Ngp_1 : Hid (RAt u1 w.heap.size [px, py]) := Lib.hid (⟨_, ha1⟩); have HF_1 : Hid (Below w.heap.size w u1) := Lib.hid (HF_0.out.grown hga1 HF_0.out.size (by simp)); have HGE1 : Hid (w.heap.size ≤ w.heap.size) := Lib.hid HF_0.out.size; clear ha1 hza1 hga1 HF_0)) | ((with_reducible show wpList _ _ _ (⟨some 5, .box 35 (.tmp 1), _, _, _, _⟩ :: _) _ _); go_must (refine wpList_box_row rfl 35 (.tmp 1) rfl (bcs (encs [qx, qy])).toArray rfl ?_; intro u2 ha2 hza2 hga2; have Ngp_2 := Lib.hid (Ngp_1.out.grown hga2 (by simp)); have Ngq_2 : Hid (RAt u2 u1.heap.size [qx, qy]) := Lib.hid (⟨_, ha2⟩); have HF_2 : Hid (Below w.heap.size w u2) := Lib.hid (HF_1.out.grown hga2 HF_1.out.size (by simp)); have HNE2_0 : Hid (w.heap.size ≠ u1.heap.size) := Lib.hid (by have := Ngp_1.out.lt; omega); have HGE2 : Hid (w.heap.size ≤ u1.heap.size) := Lib.hid HF_1.out.size; clear ha2 hza2 hga2 Ngp_1 HF_1)) | ((with_reducible show wpList _ _ _ (⟨some 6, .box 23 (.tmp 2), _, _, _, _⟩ :: _) _ _); go_must (refine wpList_box_row rfl 23 (.tmp 2) rfl (bcs (enc a)).toArray rfl ?_; intro u3 ha3 hza3 hga3; have Ngp_3 := Lib.hid (Ngp_2.out.grown hga3 (by simp)); have Ngq_3 := Lib.hid (Ngq_2.out.grown hga3 (by simp)); have Nga_3 : Hid (RAt u3 u2.heap.size [a]) := Lib.hid (NAt.row ⟨_, ha3⟩); have HF_3 : Hid (Below w.heap.size w u3) := Lib.hid (HF_2.out.grown hga3 HF_2.out.size (by simp)); have HNE3_1 : Hid (w.heap.size ≠ u2.heap.size) := Lib.hid (by have := Ngp_2.out.lt; omega); have HNE3_2 : Hid (u1.heap.size ≠ u2.heap.size) := Lib.hid (by have := Ngq_2.out.lt; omega); have HGE3 : Hid (w.heap.size ≤ u2.heap.size) := Lib.hid HF_2.out.size; clear ha3 hza3 hga3 Ngp_2 Ngq_2 HF_2)) | ((with_reducible show wpList _ _ _ (⟨some 7, .box 23 (.tmp 3), _, _, _, _⟩ :: _) _ _); go_must (refine wpList_box_row rfl 23 (.tmp 3) rfl (bcs (enc b)).toArray rfl ?_; intro u4 ha4 hza4 hga4; have Ngp_4 := Lib.hid (Ngp_3.out.grown hga4 (by simp)); have Ngq_4 := Lib.hid (Ngq_3.out.grown hga4 (by simp)); have Nga_4 := Lib.hid (Nga_3.out.grown hga4 (by simp)); have Ngb_4 : Hid (RAt u4 u3.heap.size [b]) := Lib.hid (NAt.row ⟨_, ha4⟩); have HF_4 : Hid (Below w.heap.size w u4) := Lib.hid (HF_3.out.grown hga4 HF_3.out.size (by simp)); have HNE4_3 : Hid (w.heap.size ≠ u3.heap.size) := Lib.hid (by have := Ngp_3.out.lt; omega); have HNE4_4 : Hid (u1.heap.size ≠ u3.heap.size) := Lib.hid (by have := Ngq_3.out.lt; omega); have HNE4_5 : Hid (u2.heap.size ≠ u3.heap.size) := Lib.hid (by have := Nga_3.out.lt; omega); have HGE4 : Hid (w.heap.size ≤ u3.heap.size) := Lib.hid HF_3.out.size; clear ha4 hza4 hga4 Ngp_3 Ngq_3 Nga_3 HF_3)) | fail)
  generalize u1.heap.size = gq at *
  generalize u2.heap.size = ga at *
  generalize u3.heap.size = gb at *
  refine (C0.out _).mono ?_
  rintro e5 x5 ⟨rfl, hb5⟩
  have Ngp_5 := Lib.hid (Ngp_4.out.keep hb5)
  have Ngq_5 := Lib.hid (Ngq_4.out.keep hb5)
  have Nga_5 := Lib.hid (Nga_4.out.keep hb5)
  have Ngb_5 := Lib.hid (Ngb_4.out.keep hb5)
  have HF_5 : Hid (Below w.heap.size w x5) := Lib.hid (HF_4.out.trans (hb5.mono HF_4.out.size))
  clear hb5 Ngp_4 Ngq_4 Nga_4 Ngb_4 HF_4
  go_wp2_with (first | ((with_reducible show wpList _ _ _ (⟨_, .load 35 (.tmp 4), _, _, _, _⟩ :: _) _ _); go_must (refine wpList_exec rfl (vR [px, py]) (exec_loadP (.tmp 4) rfl (w.heap.size) px py rfl Ngp_5.out) ?_)) | fail)
  refine (C1.out _).mono ?_
  rintro e6 x6 ⟨rfl, hb6⟩
  have Ngp_6 := Lib.hid (Ngp_5.out.keep hb6)
  have Ngq_6 := Lib.hid (Ngq_5.out.keep hb6)
  have Nga_6 := Lib.hid (Nga_5.out.keep hb6)
  have Ngb_6 := Lib.hid (Ngb_5.out.keep hb6)
  have HF_6 : Hid (Below w.heap.size w x6) := Lib.hid (HF_5.out.trans (hb6.mono HF_5.out.size))
  clear hb6 Ngp_5 Ngq_5 Nga_5 Ngb_5 HF_5
  go_wp2_with (first | ((with_reducible show wpList _ _ _ (⟨_, .load 35 (.tmp 5), _, _, _, _⟩ :: _) _ _); go_must (refine wpList_exec rfl (vR [qx, qy]) (exec_loadP (.tmp 5) rfl (gq) qx qy rfl Ngq_6.out) ?_)) | fail)
  refine (C2.out _).mono ?_
  rintro e7 x7 ⟨rfl, hb7⟩
  have Ngp_7 := Lib.hid (Ngp_6.out.keep hb7)
  have Ngq_7 := Lib.hid (Ngq_6.out.keep hb7)
  have Nga_7 := Lib.hid (Nga_6.out.keep hb7)
  have Ngb_7 := Lib.hid (Ngb_6.out.keep hb7)
  have HF_7 : Hid (Below w.heap.size w x7) := Lib.hid (HF_6.out.trans (hb7.mono HF_6.out.size))
  clear hb7 Ngp_6 Ngq_6 Nga_6 Ngb_6 HF_6
  go_wp2_with fail
  have HLT8_0 : Hid (w.heap.size < x7.heap.size) := Lib.hid Ngp_7.out.lt
  have HLT8_1 : Hid (gq < x7.heap.size) := Lib.hid Ngq_7.out.lt
  have HLT8_2 : Hid (ga < x7.heap.size) := Lib.hid Nga_7.out.lt
  have HLT8_3 : Hid (gb < x7.heap.size) := Lib.hid Ngb_7.out.lt
  have HLO8 : Hid (w.heap.size ≤ x7.heap.size) := Lib.hid HF_7.out.size
  refine region_split (fun a' W => ∃ a8_0 a8_1, RAt W w.heap.size [px, py] ∧ RAt W gq [qx, qy] ∧ RAt W ga [a] ∧ RAt W gb [b] ∧ RAt W a8_0 [xx, xy] ∧ RAt W a8_1 [yx, yy] ∧ x7.heap.size ≤ a8_0 ∧ x7.heap.size ≤ a8_1 ∧ a8_1 ≠ a8_0 ∧ Below w.heap.size w W ∧ a' = ⟨#[vR [px, py], vR [qx, qy], vN a, vN b, .pointer (some ⟨w.heap.size, 0, none⟩), .pointer (some ⟨gq, 0, none⟩), .pointer (some ⟨ga, 0, none⟩), .pointer (some ⟨gb, 0, none⟩), .bool false, .pointer (some ⟨a8_0, 0, none⟩), .pointer (some ⟨a8_1, 0, none⟩), undef, undef, .bool true, .bool false, vR [px, py], .int .i64 0, .bool false, .bool false, vR [qx, qy], .int .i64 0, .bool false, .bool false, vN a, vR [px, py], vR [xx, xy], vN b, vR [qx, qy], vR [yx, yy], undef, undef, undef, undef, undef, undef, undef, undef, undef, undef, undef, undef, undef, undef, undef, undef, undef, undef, undef, undef, undef, undef, undef, undef, undef, undef, undef, undef, undef, undef, undef, undef, undef, undef, undef, undef, undef, undef, undef, undef, undef, undef, undef, undef, undef, undef, undef, undef, undef, undef, undef, undef, undef, undef, undef, undef, undef, undef, undef, undef, undef, undef, undef, undef, undef, undef, undef, undef, undef, undef, undef, undef, undef], []⟩) ?_ ?_
  · refine startW (fun j => j == 8 || j == 9) (x7.heap.size) (by kernel_rfl) ?_
    obtain ⟨D8, hD8⟩ : ∃ D, D = x7.drew := ⟨_, rfl⟩
    rw [← hD8]
    have HL_8 : Hid (x7.heap.size ≤ D8.heap.size) := Lib.hid (by rw [hD8]; exact Nat.le_refl _)
    have Ngp_8 : Hid (RAt D8 w.heap.size [px, py]) := Lib.hid (by rw [hD8]; exact Ngp_7.out)
    have Ngq_8 : Hid (RAt D8 gq [qx, qy]) := Lib.hid (by rw [hD8]; exact Ngq_7.out)
    have Nga_8 : Hid (RAt D8 ga [a]) := Lib.hid (by rw [hD8]; exact Nga_7.out)
    have Ngb_8 : Hid (RAt D8 gb [b]) := Lib.hid (by rw [hD8]; exact Ngb_7.out)
    have HF_8 : Hid (Below w.heap.size w D8) := Lib.hid (by rw [hD8]; exact below_drewN' HF_7.out 1)
    clear hD8 Ngp_7 Ngq_7 Nga_7 Ngb_7 HF_7
    refine takeT (i := 0) (oi := { dst := some 23, op := Op.load 23 (Operand.tmp 6), type := 23, pos := "law.go:74", after := #[], guard := none }) (vN a) rfl (by kernel_rfl) (by kernel_rfl) (by kernel_rfl) (by kernel_rfl) (by kernel_rfl) (fun _ _ _ h => nomatch h.1) (by rfl) (fun w' hk => exec_loadF (.tmp 6) rfl (ga) 0 0 rfl [a] a rfl (Nga_8.out.below hk HLT8_2.out) rfl) ?_
    simp only [Act.put, List.setIfInBounds_toArray, List.set_cons_zero, List.set_cons_succ]
    refine takeT (i := 1) (oi := { dst := some 24, op := Op.load 35 (Operand.tmp 4), type := 35, pos := "law.go:74", after := #[], guard := none }) (vR [px, py]) rfl (by kernel_rfl) (by kernel_rfl) (by kernel_rfl) (by kernel_rfl) (by kernel_rfl) (fun _ _ _ h => nomatch h.1) (by rfl) (fun w' hk => exec_loadP (.tmp 4) rfl (w.heap.size) px py rfl (Ngp_8.out.below hk HLT8_0.out)) ?_
    simp only [Act.put, List.setIfInBounds_toArray, List.set_cons_zero, List.set_cons_succ]
    refine takeT (i := 3) (oi := { dst := some 26, op := Op.load 23 (Operand.tmp 7), type := 23, pos := "law.go:74", after := #[], guard := none }) (vN b) rfl (by kernel_rfl) (by kernel_rfl) (by kernel_rfl) (by kernel_rfl) (by kernel_rfl) (fun _ _ _ h => nomatch h.1) (by rfl) (fun w' hk => exec_loadF (.tmp 7) rfl (gb) 0 0 rfl [b] b rfl (Ngb_8.out.below hk HLT8_3.out) rfl) ?_
    simp only [Act.put, List.setIfInBounds_toArray, List.set_cons_zero, List.set_cons_succ]
    refine takeT (i := 4) (oi := { dst := some 27, op := Op.load 35 (Operand.tmp 5), type := 35, pos := "law.go:74", after := #[], guard := none }) (vR [qx, qy]) rfl (by kernel_rfl) (by kernel_rfl) (by kernel_rfl) (by kernel_rfl) (by kernel_rfl) (fun _ _ _ h => nomatch h.1) (by rfl) (fun w' hk => exec_loadP (.tmp 5) rfl (gq) qx qy rfl (Ngq_8.out.below hk HLT8_1.out)) ?_
    simp only [Act.put, List.setIfInBounds_toArray, List.set_cons_zero, List.set_cons_succ]
    refine eachW [2, 6, 7] (by kernel_rfl) (by simp) ?_
    intro k hk
    simp only [List.mem_cons, List.not_mem_nil, or_false] at hk
    rcases hk with rfl | rfl | rfl
    · refine wpOp_call (i := 2) (oi := { dst := some 25, op := Op.call { callee := Callee.value (Operand.func 41), args := #[Operand.tmp 23, Operand.tmp 24], argTypes := #[23, 35] }, type := 35, pos := "law.go:74", after := #[{ on := 0, ground := Ground.data }, { on := 1, ground := Ground.data }], guard := none }) rfl (by rfl) (exec_callL 41 [.tmp 23, .tmp 24] #[23, 35] rfl [vN a, vR [px, py]] rfl (CG41 _)) ((C3.out D8).mono ?_)
      rintro e9 W9 ⟨rfl, hb9⟩
      refine ⟨_, rfl, fun _ => hb9.mono HL_8.out, ?_⟩
      have Ngp_9 := Lib.hid (Ngp_8.out.keep hb9)
      have Ngq_9 := Lib.hid (Ngq_8.out.keep hb9)
      have Nga_9 := Lib.hid (Nga_8.out.keep hb9)
      have Ngb_9 := Lib.hid (Ngb_8.out.keep hb9)
      have HF_9 : Hid (Below w.heap.size w W9) := Lib.hid (HF_8.out.trans (hb9.mono HF_8.out.size))
      have HL_9 : Hid (x7.heap.size ≤ W9.heap.size) := Lib.hid (Nat.le_trans HL_8.out hb9.size)
      clear hb9 HL_8 Ngp_8 Ngq_8 Nga_8 Ngb_8 HF_8
      simp only [Act.put, List.setIfInBounds_toArray, List.set_cons_zero, List.set_cons_succ]
      refine eachW [5, 6, 7] (by kernel_rfl) (by simp) ?_
      intro k hk
      simp only [List.mem_cons, List.not_mem_nil, or_false] at hk
      rcases hk with rfl | rfl | rfl
      · refine wpOp_call (i := 5) (oi := { dst := some 28, op := Op.call { callee := Callee.value (Operand.func 41), args := #[Operand.tmp 26, Operand.tmp 27], argTypes := #[23, 35] }, type := 35, pos := "law.go:74", after := #[{ on := 3, ground := Ground.data }, { on := 4, ground := Ground.data }, { on := 2, ground := Ground.chain }], guard := none }) rfl (by rfl) (exec_callL 41 [.tmp 26, .tmp 27] #[23, 35] rfl [vN b, vR [qx, qy]] rfl (CG41 _)) ((C4.out W9).mono ?_)
        rintro e10 W10 ⟨rfl, hb10⟩
        refine ⟨_, rfl, fun _ => hb10.mono HL_9.out, ?_⟩
        have Ngp_10 := Lib.hid (Ngp_9.out.keep hb10)
        have Ngq_10 := Lib.hid (Ngq_9.out.keep hb10)
        have Nga_10 := Lib.hid (Nga_9.out.keep hb10)
        have Ngb_10 := Lib.hid (Ngb_9.out.keep hb10)
        have HF_10 : Hid (Below w.heap.size w W10) := Lib.hid (HF_9.out.trans (hb10.mono HF_9.out.size))
        have HL_10 : Hid (x7.heap.size ≤ W10.heap.size) := Lib.hid (Nat.le_trans HL_9.out hb10.size)
        clear hb10 HL_9 Ngp_9 Ngq_9 Nga_9 Ngb_9 HF_9
        simp only [Act.put, List.setIfInBounds_toArray, List.set_cons_zero, List.set_cons_succ]
        refine eachW [6, 7] (by kernel_rfl) (by simp) ?_
        intro k hk
        simp only [List.mem_cons, List.not_mem_nil, or_false] at hk
        rcases hk with rfl | rfl
        · refine wpOp_value (i := 6) (oi := { dst := some 9, op := Op.alloc 35, type := 0, pos := "law.go:74", after := #[], guard := none }) rfl (by rfl) (exec_alloc 35 rfl (.agg (zbs 64)) zero35 W10) ⟨fun _ => (below_alloc W10 _).mono HL_10.out, ?_⟩
          obtain ⟨W11, hW11, hb11, hz11⟩ := alloc_zeroP W10
          rw [← hW11]
          obtain ⟨g11, hg11⟩ : ∃ g, g = W10.heap.size := ⟨_, rfl⟩
          rw [← hg11] at hz11 ⊢
          have HG11 : Hid (x7.heap.size ≤ g11) := Lib.hid (by rw [hg11]; exact HL_10.out)
          have HX11_6 : Hid (w.heap.size ≠ g11) := Lib.hid (by have := Ngp_10.out.lt; omega)
          have HX11_7 : Hid (gq ≠ g11) := Lib.hid (by have := Ngq_10.out.lt; omega)
          have HX11_8 : Hid (ga ≠ g11) := Lib.hid (by have := Nga_10.out.lt; omega)
          have HX11_9 : Hid (gb ≠ g11) := Lib.hid (by have := Ngb_10.out.lt; omega)
          have Ngp_11 := Lib.hid (Ngp_10.out.keep hb11)
          have Ngq_11 := Lib.hid (Ngq_10.out.keep hb11)
          have Nga_11 := Lib.hid (Nga_10.out.keep hb11)
          have Ngb_11 := Lib.hid (Ngb_10.out.keep hb11)
          have HF_11 : Hid (Below w.heap.size w W11) := Lib.hid (HF_10.out.trans (hb11.mono HF_10.out.size))
          have HL_11 : Hid (x7.heap.size ≤ W11.heap.size) := Lib.hid (Nat.le_trans HL_10.out hb11.size)
          have RZ11_11 : Hid (RAt W11 g11 [0, 0]) := Lib.hid (zrow (k := 2) hz11)
          clear hb11 hz11 hg11 hW11 HL_10 Ngp_10 Ngq_10 Nga_10 Ngb_10 HF_10
          simp only [Act.put, List.setIfInBounds_toArray, List.set_cons_zero, List.set_cons_succ]
          refine opW _ _ (i := 7) (oi := { dst := some 10, op := Op.alloc 35, type := 0, pos := "law.go:74", after := #[], guard := none }) rfl (by kernel_rfl) (by rfl) (exec_alloc 35 rfl (.agg (zbs 64)) zero35 W11) (fun _ => (below_alloc W11 _).mono HL_11.out) ?_
          obtain ⟨W12, hW12, hb12, hz12⟩ := alloc_zeroP W11
          rw [← hW12]
          obtain ⟨g12, hg12⟩ : ∃ g, g = W11.heap.size := ⟨_, rfl⟩
          rw [← hg12] at hz12 ⊢
          have HG12 : Hid (x7.heap.size ≤ g12) := Lib.hid (by rw [hg12]; exact HL_11.out)
          have HX12_10 : Hid (w.heap.size ≠ g12) := Lib.hid (by have := Ngp_11.out.lt; omega)
          have HX12_11 : Hid (gq ≠ g12) := Lib.hid (by have := Ngq_11.out.lt; omega)
          have HX12_12 : Hid (ga ≠ g12) := Lib.hid (by have := Nga_11.out.lt; omega)
          have HX12_13 : Hid (gb ≠ g12) := Lib.hid (by have := Ngb_11.out.lt; omega)
          have HX12_14 : Hid (g11 ≠ g12) := Lib.hid (by have := RZ11_11.out.lt; omega)
          have Ngp_12 := Lib.hid (Ngp_11.out.keep hb12)
          have Ngq_12 := Lib.hid (Ngq_11.out.keep hb12)
          have Nga_12 := Lib.hid (Nga_11.out.keep hb12)
          have Ngb_12 := Lib.hid (Ngb_11.out.keep hb12)
          have RZ11_12 := Lib.hid (RZ11_11.out.keep hb12)
          have HF_12 : Hid (Below w.heap.size w W12) := Lib.hid (HF_11.out.trans (hb12.mono HF_11.out.size))
          have HL_12 : Hid (x7.heap.size ≤ W12.heap.size) := Lib.hid (Nat.le_trans HL_11.out hb12.size)
          have RZ12_12 : Hid (RAt W12 g12 [0, 0]) := Lib.hid (zrow (k := 2) hz12)
          clear hb12 hz12 hg12 hW12 HL_11 Ngp_11 Ngq_11 Nga_11 Ngb_11 RZ11_11 HF_11
          simp only [Act.put, List.setIfInBounds_toArray, List.set_cons_zero, List.set_cons_succ]
          refine storeW_P (i := 8) (oi := { dst := none, op := Op.store 35 (Operand.tmp 9) (Operand.tmp 25), type := 0, pos := "law.go:74", after := #[{ on := 6, ground := Ground.data }, { on := 2, ground := Ground.data }, { on := 5, ground := Ground.chain }, { on := 0, ground := Ground.phase }, { on := 1, ground := Ground.phase }, { on := 2, ground := Ground.phase }, { on := 3, ground := Ground.textOnly Departure.lateStores }, { on := 4, ground := Ground.textOnly Departure.lateStores }, { on := 5, ground := Ground.textOnly Departure.lateStoresUnsure }, { on := 6, ground := Ground.phase }, { on := 7, ground := Ground.phase }], guard := none }) rfl (by kernel_rfl) (by rfl) (.tmp 9) (.tmp 25) rfl (g11) [0, 0] xx xy rfl rfl RZ11_12.out rfl rfl ?_
          intro W13 hr13 hg13 hz13
          simp only [Act.put, List.setIfInBounds_toArray, List.set_cons_zero, List.set_cons_succ]
          have Ngp_13 := Lib.hid (Ngp_12.out.grown hg13 (by have := HX11_6.out; simp; omega))
          have Ngq_13 := Lib.hid (Ngq_12.out.grown hg13 (by have := HX11_7.out; simp; omega))
          have Nga_13 := Lib.hid (Nga_12.out.grown hg13 (by have := HX11_8.out; simp; omega))
          have Ngb_13 := Lib.hid (Ngb_12.out.grown hg13 (by have := HX11_9.out; simp; omega))
          have RZ11_13 : Hid (RAt W13 g11 [xx, xy]) := Lib.hid hr13
          have RZ12_13 := Lib.hid (RZ12_12.out.grown hg13 (by have := HX12_14.out; simp; omega))
          have HF_13 : Hid (Below w.heap.size w W13) := Lib.hid (HF_12.out.grown hg13 HF_12.out.size (fun r hr => by injection hr with hr; have := (show w.heap.size ≤ g11 from (by have := HG11.out; have := HLO8.out; omega)); omega))
          have HL_13 : Hid (x7.heap.size ≤ W13.heap.size) := Lib.hid (Nat.le_trans HL_12.out hg13.size)
          clear hr13 hg13 hz13 HL_12 Ngp_12 Ngq_12 Nga_12 Ngb_12 RZ11_12 RZ12_12 HF_12
          refine storeW_P (i := 9) (oi := { dst := none, op := Op.store 35 (Operand.tmp 10) (Operand.tmp 28), type := 0, pos := "law.go:74", after := #[{ on := 7, ground := Ground.data }, { on := 5, ground := Ground.data }, { on := 8, ground := Ground.chain }, { on := 0, ground := Ground.phase }, { on := 1, ground := Ground.phase }, { on := 2, ground := Ground.phase }, { on := 3, ground := Ground.phase }, { on := 4, ground := Ground.phase }, { on := 5, ground := Ground.phase }, { on := 6, ground := Ground.phase }, { on := 7, ground := Ground.phase }, { on := 8, ground := Ground.phase }], guard := none }) rfl (by kernel_rfl) (by rfl) (.tmp 10) (.tmp 28) rfl (g12) [0, 0] yx yy rfl rfl RZ12_13.out rfl rfl ?_
          intro W14 hr14 hg14 hz14
          simp only [Act.put, List.setIfInBounds_toArray, List.set_cons_zero, List.set_cons_succ]
          have Ngp_14 := Lib.hid (Ngp_13.out.grown hg14 (by have := HX12_10.out; simp; omega))
          have Ngq_14 := Lib.hid (Ngq_13.out.grown hg14 (by have := HX12_11.out; simp; omega))
          have Nga_14 := Lib.hid (Nga_13.out.grown hg14 (by have := HX12_12.out; simp; omega))
          have Ngb_14 := Lib.hid (Ngb_13.out.grown hg14 (by have := HX12_13.out; simp; omega))
          have RZ11_14 := Lib.hid (RZ11_13.out.grown hg14 (by have := HX12_14.out; simp; omega))
          have RZ12_14 : Hid (RAt W14 g12 [yx, yy]) := Lib.hid hr14
          have HF_14 : Hid (Below w.heap.size w W14) := Lib.hid (HF_13.out.grown hg14 HF_13.out.size (fun r hr => by injection hr with hr; have := (show w.heap.size ≤ g12 from (by have := HG12.out; have := HLO8.out; omega)); omega))
          have HL_14 : Hid (x7.heap.size ≤ W14.heap.size) := Lib.hid (Nat.le_trans HL_13.out hg14.size)
          clear hr14 hg14 hz14 HL_13 Ngp_13 Ngq_13 Nga_13 Ngb_13 RZ11_13 RZ12_13 HF_13
          refine doneW (by kernel_rfl) ⟨rfl, ?_⟩ _
          exact ⟨g11, g12, Ngp_14.out, Ngq_14.out, Nga_14.out, Ngb_14.out, RZ11_14.out, RZ12_14.out, HG11.out, HG12.out, (by have := HX12_14.out; omega), HF_14.out, rfl⟩
        · refine wpOp_value (i := 7) (oi := { dst := some 10, op := Op.alloc 35, type := 0, pos := "law.go:74", after := #[], guard := none }) rfl (by rfl) (exec_alloc 35 rfl (.agg (zbs 64)) zero35 W10) ⟨fun _ => (below_alloc W10 _).mono HL_10.out, ?_⟩
          obtain ⟨W15, hW15, hb15, hz15⟩ := alloc_zeroP W10
          rw [← hW15]
          obtain ⟨g15, hg15⟩ : ∃ g, g = W10.heap.size := ⟨_, rfl⟩
          rw [← hg15] at hz15 ⊢
          have HG15 : Hid (x7.heap.size ≤ g15) := Lib.hid (by rw [hg15]; exact HL_10.out)
          have HX15_6 : Hid (w.heap.size ≠ g15) := Lib.hid (by have := Ngp_10.out.lt; omega)
          have HX15_7 : Hid (gq ≠ g15) := Lib.hid (by have := Ngq_10.out.lt; omega)
          have HX15_8 : Hid (ga ≠ g15) := Lib.hid (by have := Nga_10.out.lt; omega)
          have HX15_9 : Hid (gb ≠ g15) := Lib.hid (by have := Ngb_10.out.lt; omega)
          have Ngp_15 := Lib.hid (Ngp_10.out.keep hb15)
          have Ngq_15 := Lib.hid (Ngq_10.out.keep hb15)
          have Nga_15 := Lib.hid (Nga_10.out.keep hb15)
          have Ngb_15 := Lib.hid (Ngb_10.out.keep hb15)
          have HF_15 : Hid (Below w.heap.size w W15) := Lib.hid (HF_10.out.trans (hb15.mono HF_10.out.size))
          have HL_15 : Hid (x7.heap.size ≤ W15.heap.size) := Lib.hid (Nat.le_trans HL_10.out hb15.size)
          have RZ15_15 : Hid (RAt W15 g15 [0, 0]) := Lib.hid (zrow (k := 2) hz15)
          clear hb15 hz15 hg15 hW15 HL_10 Ngp_10 Ngq_10 Nga_10 Ngb_10 HF_10
          simp only [Act.put, List.setIfInBounds_toArray, List.set_cons_zero, List.set_cons_succ]
          refine opW _ _ (i := 6) (oi := { dst := some 9, op := Op.alloc 35, type := 0, pos := "law.go:74", after := #[], guard := none }) rfl (by kernel_rfl) (by rfl) (exec_alloc 35 rfl (.agg (zbs 64)) zero35 W15) (fun _ => (below_alloc W15 _).mono HL_15.out) ?_
          obtain ⟨W16, hW16, hb16, hz16⟩ := alloc_zeroP W15
          rw [← hW16]
          obtain ⟨g16, hg16⟩ : ∃ g, g = W15.heap.size := ⟨_, rfl⟩
          rw [← hg16] at hz16 ⊢
          have HG16 : Hid (x7.heap.size ≤ g16) := Lib.hid (by rw [hg16]; exact HL_15.out)
          have HX16_10 : Hid (w.heap.size ≠ g16) := Lib.hid (by have := Ngp_15.out.lt; omega)
          have HX16_11 : Hid (gq ≠ g16) := Lib.hid (by have := Ngq_15.out.lt; omega)
          have HX16_12 : Hid (ga ≠ g16) := Lib.hid (by have := Nga_15.out.lt; omega)
          have HX16_13 : Hid (gb ≠ g16) := Lib.hid (by have := Ngb_15.out.lt; omega)
          have HX16_14 : Hid (g15 ≠ g16) := Lib.hid (by have := RZ15_15.out.lt; omega)
          have Ngp_16 := Lib.hid (Ngp_15.out.keep hb16)
          have Ngq_16 := Lib.hid (Ngq_15.out.keep hb16)
          have Nga_16 := Lib.hid (Nga_15.out.keep hb16)
          have Ngb_16 := Lib.hid (Ngb_15.out.keep hb16)
          have RZ15_16 := Lib.hid (RZ15_15.out.keep hb16)
          have HF_16 : Hid (Below w.heap.size w W16) := Lib.hid (HF_15.out.trans (hb16.mono HF_15.out.size))
          have HL_16 : Hid (x7.heap.size ≤ W16.heap.size) := Lib.hid (Nat.le_trans HL_15.out hb16.size)
          have RZ16_16 : Hid (RAt W16 g16 [0, 0]) := Lib.hid (zrow (k := 2) hz16)
          clear hb16 hz16 hg16 hW16 HL_15 Ngp_15 Ngq_15 Nga_15 Ngb_15 RZ15_15 HF_15
          simp only [Act.put, List.setIfInBounds_toArray, List.set_cons_zero, List.set_cons_succ]
          refine storeW_P (i := 8) (oi := { dst := none, op := Op.store 35 (Operand.tmp 9) (Operand.tmp 25), type := 0, pos := "law.go:74", after := #[{ on := 6, ground := Ground.data }, { on := 2, ground := Ground.data }, { on := 5, ground := Ground.chain }, { on := 0, ground := Ground.phase }, { on := 1, ground := Ground.phase }, { on := 2, ground := Ground.phase }, { on := 3, ground := Ground.textOnly Departure.lateStores }, { on := 4, ground := Ground.textOnly Departure.lateStores }, { on := 5, ground := Ground.textOnly Departure.lateStoresUnsure }, { on := 6, ground := Ground.phase }, { on := 7, ground := Ground.phase }], guard := none }) rfl (by kernel_rfl) (by rfl) (.tmp 9) (.tmp 25) rfl (g16) [0, 0] xx xy rfl rfl RZ16_16.out rfl rfl ?_
          intro W17 hr17 hg17 hz17
          simp only [Act.put, List.setIfInBounds_toArray, List.set_cons_zero, List.set_cons_succ]
          have Ngp_17 := Lib.hid (Ngp_16.out.grown hg17 (by have := HX16_10.out; simp; omega))
          have Ngq_17 := Lib.hid (Ngq_16.out.grown hg17 (by have := HX16_11.out; simp; omega))
          have Nga_17 := Lib.hid (Nga_16.out.grown hg17 (by have := HX16_12.out; simp; omega))
          have Ngb_17 := Lib.hid (Ngb_16.out.grown hg17 (by have := HX16_13.out; simp; omega))
          have RZ15_17 := Lib.hid (RZ15_16.out.grown hg17 (by have := HX16_14.out; simp; omega))
          have RZ16_17 : Hid (RAt W17 g16 [xx, xy]) := Lib.hid hr17
          have HF_17 : Hid (Below w.heap.size w W17) := Lib.hid (HF_16.out.grown hg17 HF_16.out.size (fun r hr => by injection hr with hr; have := (show w.heap.size ≤ g16 from (by have := HG16.out; have := HLO8.out; omega)); omega))
          have HL_17 : Hid (x7.heap.size ≤ W17.heap.size) := Lib.hid (Nat.le_trans HL_16.out hg17.size)
          clear hr17 hg17 hz17 HL_16 Ngp_16 Ngq_16 Nga_16 Ngb_16 RZ15_16 RZ16_16 HF_16
          refine storeW_P (i := 9) (oi := { dst := none, op := Op.store 35 (Operand.tmp 10) (Operand.tmp 28), type := 0, pos := "law.go:74", after := #[{ on := 7, ground := Ground.data }, { on := 5, ground := Ground.data }, { on := 8, ground := Ground.chain }, { on := 0, ground := Ground.phase }, { on := 1, ground := Ground.phase }, { on := 2, ground := Ground.phase }, { on := 3, ground := Ground.phase }, { on := 4, ground := Ground.phase }, { on := 5, ground := Ground.phase }, { on := 6, ground := Ground.phase }, { on := 7, ground := Ground.phase }, { on := 8, ground := Ground.phase }], guard := none }) rfl (by kernel_rfl) (by rfl) (.tmp 10) (.tmp 28) rfl (g15) [0, 0] yx yy rfl rfl RZ15_17.out rfl rfl ?_
          intro W18 hr18 hg18 hz18
          simp only [Act.put, List.setIfInBounds_toArray, List.set_cons_zero, List.set_cons_succ]
          have Ngp_18 := Lib.hid (Ngp_17.out.grown hg18 (by have := HX15_6.out; simp; omega))
          have Ngq_18 := Lib.hid (Ngq_17.out.grown hg18 (by have := HX15_7.out; simp; omega))
          have Nga_18 := Lib.hid (Nga_17.out.grown hg18 (by have := HX15_8.out; simp; omega))
          have Ngb_18 := Lib.hid (Ngb_17.out.grown hg18 (by have := HX15_9.out; simp; omega))
          have RZ15_18 : Hid (RAt W18 g15 [yx, yy]) := Lib.hid hr18
          have RZ16_18 := Lib.hid (RZ16_17.out.grown hg18 (by have := HX16_14.out; simp; omega))
          have HF_18 : Hid (Below w.heap.size w W18) := Lib.hid (HF_17.out.grown hg18 HF_17.out.size (fun r hr => by injection hr with hr; have := (show w.heap.size ≤ g15 from (by have := HG15.out; have := HLO8.out; omega)); omega))
          have HL_18 : Hid (x7.heap.size ≤ W18.heap.size) := Lib.hid (Nat.le_trans HL_17.out hg18.size)
          clear hr18 hg18 hz18 HL_17 Ngp_17 Ngq_17 Nga_17 Ngb_17 RZ15_17 RZ16_17 HF_17
          refine doneW (by kernel_rfl) ⟨rfl, ?_⟩ _
          exact ⟨g16, g15, Ngp_18.out, Ngq_18.out, Nga_18.out, Ngb_18.out, RZ16_18.out, RZ15_18.out, HG16.out, HG15.out, (by have := HX16_14.out; omega), HF_18.out, rfl⟩
      · refine wpOp_value (i := 6) (oi := { dst := some 9, op := Op.alloc 35, type := 0, pos := "law.go:74", after := #[], guard := none }) rfl (by rfl) (exec_alloc 35 rfl (.agg (zbs 64)) zero35 W9) ⟨fun _ => (below_alloc W9 _).mono HL_9.out, ?_⟩
        obtain ⟨W19, hW19, hb19, hz19⟩ := alloc_zeroP W9
        rw [← hW19]
        obtain ⟨g19, hg19⟩ : ∃ g, g = W9.heap.size := ⟨_, rfl⟩
        rw [← hg19] at hz19 ⊢
        have HG19 : Hid (x7.heap.size ≤ g19) := Lib.hid (by rw [hg19]; exact HL_9.out)
        have HX19_6 : Hid (w.heap.size ≠ g19) := Lib.hid (by have := Ngp_9.out.lt; omega)
        have HX19_7 : Hid (gq ≠ g19) := Lib.hid (by have := Ngq_9.out.lt; omega)
        have HX19_8 : Hid (ga ≠ g19) := Lib.hid (by have := Nga_9.out.lt; omega)
        have HX19_9 : Hid (gb ≠ g19) := Lib.hid (by have := Ngb_9.out.lt; omega)
        have Ngp_19 := Lib.hid (Ngp_9.out.keep hb19)
        have Ngq_19 := Lib.hid (Ngq_9.out.keep hb19)
        have Nga_19 := Lib.hid (Nga_9.out.keep hb19)
        have Ngb_19 := Lib.hid (Ngb_9.out.keep hb19)
        have HF_19 : Hid (Below w.heap.size w W19) := Lib.hid (HF_9.out.trans (hb19.mono HF_9.out.size))
        have HL_19 : Hid (x7.heap.size ≤ W19.heap.size) := Lib.hid (Nat.le_trans HL_9.out hb19.size)
        have RZ19_19 : Hid (RAt W19 g19 [0, 0]) := Lib.hid (zrow (k := 2) hz19)
        clear hb19 hz19 hg19 hW19 HL_9 Ngp_9 Ngq_9 Nga_9 Ngb_9 HF_9
        simp only [Act.put, List.setIfInBounds_toArray, List.set_cons_zero, List.set_cons_succ]
        refine eachW [5, 7] (by kernel_rfl) (by simp) ?_
        intro k hk
        simp only [List.mem_cons, List.not_mem_nil, or_false] at hk
        rcases hk with rfl | rfl
        · refine wpOp_call (i := 5) (oi := { dst := some 28, op := Op.call { callee := Callee.value (Operand.func 41), args := #[Operand.tmp 26, Operand.tmp 27], argTypes := #[23, 35] }, type := 35, pos := "law.go:74", after := #[{ on := 3, ground := Ground.data }, { on := 4, ground := Ground.data }, { on := 2, ground := Ground.chain }], guard := none }) rfl (by rfl) (exec_callL 41 [.tmp 26, .tmp 27] #[23, 35] rfl [vN b, vR [qx, qy]] rfl (CG41 _)) ((C4.out W19).mono ?_)
          rintro e20 W20 ⟨rfl, hb20⟩
          refine ⟨_, rfl, fun _ => hb20.mono HL_19.out, ?_⟩
          have Ngp_20 := Lib.hid (Ngp_19.out.keep hb20)
          have Ngq_20 := Lib.hid (Ngq_19.out.keep hb20)
          have Nga_20 := Lib.hid (Nga_19.out.keep hb20)
          have Ngb_20 := Lib.hid (Ngb_19.out.keep hb20)
          have RZ19_20 := Lib.hid (RZ19_19.out.keep hb20)
          have HF_20 : Hid (Below w.heap.size w W20) := Lib.hid (HF_19.out.trans (hb20.mono HF_19.out.size))
          have HL_20 : Hid (x7.heap.size ≤ W20.heap.size) := Lib.hid (Nat.le_trans HL_19.out hb20.size)
          clear hb20 HL_19 Ngp_19 Ngq_19 Nga_19 Ngb_19 RZ19_19 HF_19
          simp only [Act.put, List.setIfInBounds_toArray, List.set_cons_zero, List.set_cons_succ]
          refine opW _ _ (i := 7) (oi := { dst := some 10, op := Op.alloc 35, type := 0, pos := "law.go:74", after := #[], guard := none }) rfl (by kernel_rfl) (by rfl) (exec_alloc 35 rfl (.agg (zbs 64)) zero35 W20) (fun _ => (below_alloc W20 _).mono HL_20.out) ?_
          obtain ⟨W21, hW21, hb21, hz21⟩ := alloc_zeroP W20
          rw [← hW21]
          obtain ⟨g21, hg21⟩ : ∃ g, g = W20.heap.size := ⟨_, rfl⟩
          rw [← hg21] at hz21 ⊢
          have HG21 : Hid (x7.heap.size ≤ g21) := Lib.hid (by rw [hg21]; exact HL_20.out)
          have HX21_10 : Hid (w.heap.size ≠ g21) := Lib.hid (by have := Ngp_20.out.lt; omega)
          have HX21_11 : Hid (gq ≠ g21) := Lib.hid (by have := Ngq_20.out.lt; omega)
          have HX21_12 : Hid (ga ≠ g21) := Lib.hid (by have := Nga_20.out.lt; omega)
          have HX21_13 : Hid (gb ≠ g21) := Lib.hid (by have := Ngb_20.out.lt; omega)
          have HX21_14 : Hid (g19 ≠ g21) := Lib.hid (by have := RZ19_20.out.lt; omega)
          have Ngp_21 := Lib.hid (Ngp_20.out.keep hb21)
          have Ngq_21 := Lib.hid (Ngq_20.out.keep hb21)
          have Nga_21 := Lib.hid (Nga_20.out.keep hb21)
          have Ngb_21 := Lib.hid (Ngb_20.out.keep hb21)
          have RZ19_21 := Lib.hid (RZ19_20.out.keep hb21)
          have HF_21 : Hid (Below w.heap.size w W21) := Lib.hid (HF_20.out.trans (hb21.mono HF_20.out.size))
          have HL_21 : Hid (x7.heap.size ≤ W21.heap.size) := Lib.hid (Nat.le_trans HL_20.out hb21.size)
          have RZ21_21 : Hid (RAt W21 g21 [0, 0]) := Lib.hid (zrow (k := 2) hz21)
          clear hb21 hz21 hg21 hW21 HL_20 Ngp_20 Ngq_20 Nga_20 Ngb_20 RZ19_20 HF_20
          simp only [Act.put, List.setIfInBounds_toArray, List.set_cons_zero, List.set_cons_succ]
          refine storeW_P (i := 8) (oi := { dst := none, op := Op.store 35 (Operand.tmp 9) (Operand.tmp 25), type := 0, pos := "law.go:74", after := #[{ on := 6, ground := Ground.data }, { on := 2, ground := Ground.data }, { on := 5, ground := Ground.chain }, { on := 0, ground := Ground.phase }, { on := 1, ground := Ground.phase }, { on := 2, ground := Ground.phase }, { on := 3, ground := Ground.textOnly Departure.lateStores }, { on := 4, ground := Ground.textOnly Departure.lateStores }, { on := 5, ground := Ground.textOnly Departure.lateStoresUnsure }, { on := 6, ground := Ground.phase }, { on := 7, ground := Ground.phase }], guard := none }) rfl (by kernel_rfl) (by rfl) (.tmp 9) (.tmp 25) rfl (g19) [0, 0] xx xy rfl rfl RZ19_21.out rfl rfl ?_
          intro W22 hr22 hg22 hz22
          simp only [Act.put, List.setIfInBounds_toArray, List.set_cons_zero, List.set_cons_succ]
          have Ngp_22 := Lib.hid (Ngp_21.out.grown hg22 (by have := HX19_6.out; simp; omega))
          have Ngq_22 := Lib.hid (Ngq_21.out.grown hg22 (by have := HX19_7.out; simp; omega))
          have Nga_22 := Lib.hid (Nga_21.out.grown hg22 (by have := HX19_8.out; simp; omega))
          have Ngb_22 := Lib.hid (Ngb_21.out.grown hg22 (by have := HX19_9.out; simp; omega))
          have RZ19_22 : Hid (RAt W22 g19 [xx, xy]) := Lib.hid hr22
          have RZ21_22 := Lib.hid (RZ21_21.out.grown hg22 (by have := HX21_14.out; simp; omega))
          have HF_22 : Hid (Below w.heap.size w W22) := Lib.hid (HF_21.out.grown hg22 HF_21.out.size (fun r hr => by injection hr with hr; have := (show w.heap.size ≤ g19 from (by have := HG19.out; have := HLO8.out; omega)); omega))
          have HL_22 : Hid (x7.heap.size ≤ W22.heap.size) := Lib.hid (Nat.le_trans HL_21.out hg22.size)
          clear hr22 hg22 hz22 HL_21 Ngp_21 Ngq_21 Nga_21 Ngb_21 RZ19_21 RZ21_21 HF_21
          refine storeW_P (i := 9) (oi := { dst := none, op := Op.store 35 (Operand.tmp 10) (Operand.tmp 28), type := 0, pos := "law.go:74", after := #[{ on := 7, ground := Ground.data }, { on := 5, ground := Ground.data }, { on := 8, ground := Ground.chain }, { on := 0, ground := Ground.phase }, { on := 1, ground := Ground.phase }, { on := 2, ground := Ground.phase }, { on := 3, ground := Ground.phase }, { on := 4, ground := Ground.phase }, { on := 5, ground := Ground.phase }, { on := 6, ground := Ground.phase }, { on := 7, ground := Ground.phase }, { on := 8, ground := Ground.phase }], guard := none }) rfl (by kernel_rfl) (by rfl) (.tmp 10) (.tmp 28) rfl (g21) [0, 0] yx yy rfl rfl RZ21_22.out rfl rfl ?_
          intro W23 hr23 hg23 hz23
          simp only [Act.put, List.setIfInBounds_toArray, List.set_cons_zero, List.set_cons_succ]
          have Ngp_23 := Lib.hid (Ngp_22.out.grown hg23 (by have := HX21_10.out; simp; omega))
          have Ngq_23 := Lib.hid (Ngq_22.out.grown hg23 (by have := HX21_11.out; simp; omega))
          have Nga_23 := Lib.hid (Nga_22.out.grown hg23 (by have := HX21_12.out; simp; omega))
          have Ngb_23 := Lib.hid (Ngb_22.out.grown hg23 (by have := HX21_13.out; simp; omega))
          have RZ19_23 := Lib.hid (RZ19_22.out.grown hg23 (by have := HX21_14.out; simp; omega))
          have RZ21_23 : Hid (RAt W23 g21 [yx, yy]) := Lib.hid hr23
          have HF_23 : Hid (Below w.heap.size w W23) := Lib.hid (HF_22.out.grown hg23 HF_22.out.size (fun r hr => by injection hr with hr; have := (show w.heap.size ≤ g21 from (by have := HG21.out; have := HLO8.out; omega)); omega))
          have HL_23 : Hid (x7.heap.size ≤ W23.heap.size) := Lib.hid (Nat.le_trans HL_22.out hg23.size)
          clear hr23 hg23 hz23 HL_22 Ngp_22 Ngq_22 Nga_22 Ngb_22 RZ19_22 RZ21_22 HF_22
          refine doneW (by kernel_rfl) ⟨rfl, ?_⟩ _
          exact ⟨g19, g21, Ngp_23.out, Ngq_23.out, Nga_23.out, Ngb_23.out, RZ19_23.out, RZ21_23.out, HG19.out, HG21.out, (by have := HX21_14.out; omega), HF_23.out, rfl⟩
        · refine wpOp_value (i := 7) (oi := { dst := some 10, op := Op.alloc 35, type := 0, pos := "law.go:74", after := #[], guard := none }) rfl (by rfl) (exec_alloc 35 rfl (.agg (zbs 64)) zero35 W19) ⟨fun _ => (below_alloc W19 _).mono HL_19.out, ?_⟩
          obtain ⟨W24, hW24, hb24, hz24⟩ := alloc_zeroP W19
          rw [← hW24]
          obtain ⟨g24, hg24⟩ : ∃ g, g = W19.heap.size := ⟨_, rfl⟩
          rw [← hg24] at hz24 ⊢
          have HG24 : Hid (x7.heap.size ≤ g24) := Lib.hid (by rw [hg24]; exact HL_19.out)
          have HX24_10 : Hid (w.heap.size ≠ g24) := Lib.hid (by have := Ngp_19.out.lt; omega)
          have HX24_11 : Hid (gq ≠ g24) := Lib.hid (by have := Ngq_19.out.lt; omega)
          have HX24_12 : Hid (ga ≠ g24) := Lib.hid (by have := Nga_19.out.lt; omega)
          have HX24_13 : Hid (gb ≠ g24) := Lib.hid (by have := Ngb_19.out.lt; omega)
          have HX24_14 : Hid (g19 ≠ g24) := Lib.hid (by have := RZ19_19.out.lt; omega)
          have Ngp_24 := Lib.hid (Ngp_19.out.keep hb24)
          have Ngq_24 := Lib.hid (Ngq_19.out.keep hb24)
          have Nga_24 := Lib.hid (Nga_19.out.keep hb24)
          have Ngb_24 := Lib.hid (Ngb_19.out.keep hb24)
          have RZ19_24 := Lib.hid (RZ19_19.out.keep hb24)
          have HF_24 : Hid (Below w.heap.size w W24) := Lib.hid (HF_19.out.trans (hb24.mono HF_19.out.size))
          have HL_24 : Hid (x7.heap.size ≤ W24.heap.size) := Lib.hid (Nat.le_trans HL_19.out hb24.size)
          have RZ24_24 : Hid (RAt W24 g24 [0, 0]) := Lib.hid (zrow (k := 2) hz24)
          clear hb24 hz24 hg24 hW24 HL_19 Ngp_19 Ngq_19 Nga_19 Ngb_19 RZ19_19 HF_19
          simp only [Act.put, List.setIfInBounds_toArray, List.set_cons_zero, List.set_cons_succ]
          refine callW (i := 5) (oi := { dst := some 28, op := Op.call { callee := Callee.value (Operand.func 41), args := #[Operand.tmp 26, Operand.tmp 27], argTypes := #[23, 35] }, type := 35, pos := "law.go:74", after := #[{ on := 3, ground := Ground.data }, { on := 4, ground := Ground.data }, { on := 2, ground := Ground.chain }], guard := none }) rfl (by kernel_rfl) (by rfl) (exec_callL 41 [.tmp 26, .tmp 27] #[23, 35] rfl [vN b, vR [qx, qy]] rfl (CG41 _)) ((C4.out W24).mono ?_)
          rintro e25 W25 ⟨rfl, hb25⟩
          refine ⟨_, rfl, fun _ => hb25.mono HL_24.out, ?_⟩
          have Ngp_25 := Lib.hid (Ngp_24.out.keep hb25)
          have Ngq_25 := Lib.hid (Ngq_24.out.keep hb25)
          have Nga_25 := Lib.hid (Nga_24.out.keep hb25)
          have Ngb_25 := Lib.hid (Ngb_24.out.keep hb25)
          have RZ19_25 := Lib.hid (RZ19_24.out.keep hb25)
          have RZ24_25 := Lib.hid (RZ24_24.out.keep hb25)
          have HF_25 : Hid (Below w.heap.size w W25) := Lib.hid (HF_24.out.trans (hb25.mono HF_24.out.size))
          have HL_25 : Hid (x7.heap.size ≤ W25.heap.size) := Lib.hid (Nat.le_trans HL_24.out hb25.size)
          clear hb25 HL_24 Ngp_24 Ngq_24 Nga_24 Ngb_24 RZ19_24 RZ24_24 HF_24
          simp only [Act.put, List.setIfInBounds_toArray, List.set_cons_zero, List.set_cons_succ]
          refine storeW_P (i := 8) (oi := { dst := none, op := Op.store 35 (Operand.tmp 9) (Operand.tmp 25), type := 0, pos := "law.go:74", after := #[{ on := 6, ground := Ground.data }, { on := 2, ground := Ground.data }, { on := 5, ground := Ground.chain }, { on := 0, ground := Ground.phase }, { on := 1, ground := Ground.phase }, { on := 2, ground := Ground.phase }, { on := 3, ground := Ground.textOnly Departure.lateStores }, { on := 4, ground := Ground.textOnly Departure.lateStores }, { on := 5, ground := Ground.textOnly Departure.lateStoresUnsure }, { on := 6, ground := Ground.phase }, { on := 7, ground := Ground.phase }], guard := none }) rfl (by kernel_rfl) (by rfl) (.tmp 9) (.tmp 25) rfl (g19) [0, 0] xx xy rfl rfl RZ19_25.out rfl rfl ?_
          intro W26 hr26 hg26 hz26
          simp only [Act.put, List.setIfInBounds_toArray, List.set_cons_zero, List.set_cons_succ]
          have Ngp_26 := Lib.hid (Ngp_25.out.grown hg26 (by have := HX19_6.out; simp; omega))
          have Ngq_26 := Lib.hid (Ngq_25.out.grown hg26 (by have := HX19_7.out; simp; omega))
          have Nga_26 := Lib.hid (Nga_25.out.grown hg26 (by have := HX19_8.out; simp; omega))
          have Ngb_26 := Lib.hid (Ngb_25.out.grown hg26 (by have := HX19_9.out; simp; omega))
          have RZ19_26 : Hid (RAt W26 g19 [xx, xy]) := Lib.hid hr26
          have RZ24_26 := Lib.hid (RZ24_25.out.grown hg26 (by have := HX24_14.out; simp; omega))
          have HF_26 : Hid (Below w.heap.size w W26) := Lib.hid (HF_25.out.grown hg26 HF_25.out.size (fun r hr => by injection hr with hr; have := (show w.heap.size ≤ g19 from (by have := HG19.out; have := HLO8.out; omega)); omega))
          have HL_26 : Hid (x7.heap.size ≤ W26.heap.size) := Lib.hid (Nat.le_trans HL_25.out hg26.size)
          clear hr26 hg26 hz26 HL_25 Ngp_25 Ngq_25 Nga_25 Ngb_25 RZ19_25 RZ24_25 HF_25
          refine storeW_P (i := 9) (oi := { dst := none, op := Op.store 35 (Operand.tmp 10) (Operand.tmp 28), type := 0, pos := "law.go:74", after := #[{ on := 7, ground := Ground.data }, { on := 5, ground := Ground.data }, { on := 8, ground := Ground.chain }, { on := 0, ground := Ground.phase }, { on := 1, ground := Ground.phase }, { on := 2, ground := Ground.phase }, { on := 3, ground := Ground.phase }, { on := 4, ground := Ground.phase }, { on := 5, ground := Ground.phase }, { on := 6, ground := Ground.phase }, { on := 7, ground := Ground.phase }, { on := 8, ground := Ground.phase }], guard := none }) rfl (by kernel_rfl) (by rfl) (.tmp 10) (.tmp 28) rfl (g24) [0, 0] yx yy rfl rfl RZ24_26.out rfl rfl ?_
          intro W27 hr27 hg27 hz27
          simp only [Act.put, List.setIfInBounds_toArray, List.set_cons_zero, List.set_cons_succ]
          have Ngp_27 := Lib.hid (Ngp_26.out.grown hg27 (by have := HX24_10.out; simp; omega))
          have Ngq_27 := Lib.hid (Ngq_26.out.grown hg27 (by have := HX24_11.out; simp; omega))
          have Nga_27 := Lib.hid (Nga_26.out.grown hg27 (by have := HX24_12.out; simp; omega))
          have Ngb_27 := Lib.hid (Ngb_26.out.grown hg27 (by have := HX24_13.out; simp; omega))
          have RZ19_27 := Lib.hid (RZ19_26.out.grown hg27 (by have := HX24_14.out; simp; omega))
          have RZ24_27 : Hid (RAt W27 g24 [yx, yy]) := Lib.hid hr27
          have HF_27 : Hid (Below w.heap.size w W27) := Lib.hid (HF_26.out.grown hg27 HF_26.out.size (fun r hr => by injection hr with hr; have := (show w.heap.size ≤ g24 from (by have := HG24.out; have := HLO8.out; omega)); omega))
          have HL_27 : Hid (x7.heap.size ≤ W27.heap.size) := Lib.hid (Nat.le_trans HL_26.out hg27.size)
          clear hr27 hg27 hz27 HL_26 Ngp_26 Ngq_26 Nga_26 Ngb_26 RZ19_26 RZ24_26 HF_26
          refine doneW (by kernel_rfl) ⟨rfl, ?_⟩ _
          exact ⟨g19, g24, Ngp_27.out, Ngq_27.out, Nga_27.out, Ngb_27.out, RZ19_27.out, RZ24_27.out, HG19.out, HG24.out, (by have := HX24_14.out; omega), HF_27.out, rfl⟩
      · refine wpOp_value (i := 7) (oi := { dst := some 10, op := Op.alloc 35, type := 0, pos := "law.go:74", after := #[], guard := none }) rfl (by rfl) (exec_alloc 35 rfl (.agg (zbs 64)) zero35 W9) ⟨fun _ => (below_alloc W9 _).mono HL_9.out, ?_⟩
        obtain ⟨W28, hW28, hb28, hz28⟩ := alloc_zeroP W9
        rw [← hW28]
        obtain ⟨g28, hg28⟩ : ∃ g, g = W9.heap.size := ⟨_, rfl⟩
        rw [← hg28] at hz28 ⊢
        have HG28 : Hid (x7.heap.size ≤ g28) := Lib.hid (by rw [hg28]; exact HL_9.out)
        have HX28_6 : Hid (w.heap.size ≠ g28) := Lib.hid (by have := Ngp_9.out.lt; omega)
        have HX28_7 : Hid (gq ≠ g28) := Lib.hid (by have := Ngq_9.out.lt; omega)
        have HX28_8 : Hid (ga ≠ g28) := Lib.hid (by have := Nga_9.out.lt; omega)
        have HX28_9 : Hid (gb ≠ g28) := Lib.hid (by have := Ngb_9.out.lt; omega)
        have Ngp_28 := Lib.hid (Ngp_9.out.keep hb28)
        have Ngq_28 := Lib.hid (Ngq_9.out.keep hb28)
        have Nga_28 := Lib.hid (Nga_9.out.keep hb28)
        have Ngb_28 := Lib.hid (Ngb_9.out.keep hb28)
        have HF_28 : Hid (Below w.heap.size w W28) := Lib.hid (HF_9.out.trans (hb28.mono HF_9.out.size))
        have HL_28 : Hid (x7.heap.size ≤ W28.heap.size) := Lib.hid (Nat.le_trans HL_9.out hb28.size)
        have RZ28_28 : Hid (RAt W28 g28 [0, 0]) := Lib.hid (zrow (k := 2) hz28)
        clear hb28 hz28 hg28 hW28 HL_9 Ngp_9 Ngq_9 Nga_9 Ngb_9 HF_9
        simp only [Act.put, List.setIfInBounds_toArray, List.set_cons_zero, List.set_cons_succ]
        refine eachW [5, 6] (by kernel_rfl) (by simp) ?_
        intro k hk
        simp only [List.mem_cons, List.not_mem_nil, or_false] at hk
        rcases hk with rfl | rfl
        · refine wpOp_call (i := 5) (oi := { dst := some 28, op := Op.call { callee := Callee.value (Operand.func 41), args := #[Operand.tmp 26, Operand.tmp 27], argTypes := #[23, 35] }, type := 35, pos := "law.go:74", after := #[{ on := 3, ground := Ground.data }, { on := 4, ground := Ground.data }, { on := 2, ground := Ground.chain }], guard := none }) rfl (by rfl) (exec_callL 41 [.tmp 26, .tmp 27] #[23, 35] rfl [vN b, vR [qx, qy]] rfl (CG41 _)) ((C4.out W28).mono ?_)
          rintro e29 W29 ⟨rfl, hb29⟩
          refine ⟨_, rfl, fun _ => hb29.mono HL_28.out, ?_⟩
          have Ngp_29 := Lib.hid (Ngp_28.out.keep hb29)
          have Ngq_29 := Lib.hid (Ngq_28.out.keep hb29)
          have Nga_29 := Lib.hid (Nga_28.out.keep hb29)
          have Ngb_29 := Lib.hid (Ngb_28.out.keep hb29)
          have RZ28_29 := Lib.hid (RZ28_28.out.keep hb29)
          have HF_29 : Hid (Below w.heap.size w W29) := Lib.hid (HF_28.out.trans (hb29.mono HF_28.out.size))
          have HL_29 : Hid (x7.heap.size ≤ W29.heap.size) := Lib.hid (Nat.le_trans HL_28.out hb29.size)
          clear hb29 HL_28 Ngp_28 Ngq_28 Nga_28 Ngb_28 RZ28_28 HF_28
          simp only [Act.put, List.setIfInBounds_toArray, List.set_cons_zero, List.set_cons_succ]
          refine opW _ _ (i := 6) (oi := { dst := some 9, op := Op.alloc 35, type := 0, pos := "law.go:74", after := #[], guard := none }) rfl (by kernel_rfl) (by rfl) (exec_alloc 35 rfl (.agg (zbs 64)) zero35 W29) (fun _ => (below_alloc W29 _).mono HL_29.out) ?_
          obtain ⟨W30, hW30, hb30, hz30⟩ := alloc_zeroP W29
          rw [← hW30]
          obtain ⟨g30, hg30⟩ : ∃ g, g = W29.heap.size := ⟨_, rfl⟩
          rw [← hg30] at hz30 ⊢
          have HG30 : Hid (x7.heap.size ≤ g30) := Lib.hid (by rw [hg30]; exact HL_29.out)
          have HX30_10 : Hid (w.heap.size ≠ g30) := Lib.hid (by have := Ngp_29.out.lt; omega)
          have HX30_11 : Hid (gq ≠ g30) := Lib.hid (by have := Ngq_29.out.lt; omega)
          have HX30_12 : Hid (ga ≠ g30) := Lib.hid (by have := Nga_29.out.lt; omega)
          have HX30_13 : Hid (gb ≠ g30) := Lib.hid (by have := Ngb_29.out.lt; omega)
          have HX30_14 : Hid (g28 ≠ g30) := Lib.hid (by have := RZ28_29.out.lt; omega)
          have Ngp_30 := Lib.hid (Ngp_29.out.keep hb30)
          have Ngq_30 := Lib.hid (Ngq_29.out.keep hb30)
          have Nga_30 := Lib.hid (Nga_29.out.keep hb30)
          have Ngb_30 := Lib.hid (Ngb_29.out.keep hb30)
          have RZ28_30 := Lib.hid (RZ28_29.out.keep hb30)
          have HF_30 : Hid (Below w.heap.size w W30) := Lib.hid (HF_29.out.trans (hb30.mono HF_29.out.size))
          have HL_30 : Hid (x7.heap.size ≤ W30.heap.size) := Lib.hid (Nat.le_trans HL_29.out hb30.size)
          have RZ30_30 : Hid (RAt W30 g30 [0, 0]) := Lib.hid (zrow (k := 2) hz30)
          clear hb30 hz30 hg30 hW30 HL_29 Ngp_29 Ngq_29 Nga_29 Ngb_29 RZ28_29 HF_29
          simp only [Act.put, List.setIfInBounds_toArray, List.set_cons_zero, List.set_cons_succ]
          refine storeW_P (i := 8) (oi := { dst := none, op := Op.store 35 (Operand.tmp 9) (Operand.tmp 25), type := 0, pos := "law.go:74", after := #[{ on := 6, ground := Ground.data }, { on := 2, ground := Ground.data }, { on := 5, ground := Ground.chain }, { on := 0, ground := Ground.phase }, { on := 1, ground := Ground.phase }, { on := 2, ground := Ground.phase }, { on := 3, ground := Ground.textOnly Departure.lateStores }, { on := 4, ground := Ground.textOnly Departure.lateStores }, { on := 5, ground := Ground.textOnly Departure.lateStoresUnsure }, { on := 6, ground := Ground.phase }, { on := 7, ground := Ground.phase }], guard := none }) rfl (by kernel_rfl) (by rfl) (.tmp 9) (.tmp 25) rfl (g30) [0, 0] xx xy rfl rfl RZ30_30.out rfl rfl ?_
          intro W31 hr31 hg31 hz31
          simp only [Act.put, List.setIfInBounds_toArray, List.set_cons_zero, List.set_cons_succ]
          have Ngp_31 := Lib.hid (Ngp_30.out.grown hg31 (by have := HX30_10.out; simp; omega))
          have Ngq_31 := Lib.hid (Ngq_30.out.grown hg31 (by have := HX30_11.out; simp; omega))
          have Nga_31 := Lib.hid (Nga_30.out.grown hg31 (by have := HX30_12.out; simp; omega))
          have Ngb_31 := Lib.hid (Ngb_30.out.grown hg31 (by have := HX30_13.out; simp; omega))
          have RZ28_31 := Lib.hid (RZ28_30.out.grown hg31 (by have := HX30_14.out; simp; omega))
          have RZ30_31 : Hid (RAt W31 g30 [xx, xy]) := Lib.hid hr31
          have HF_31 : Hid (Below w.heap.size w W31) := Lib.hid (HF_30.out.grown hg31 HF_30.out.size (fun r hr => by injection hr with hr; have := (show w.heap.size ≤ g30 from (by have := HG30.out; have := HLO8.out; omega)); omega))
          have HL_31 : Hid (x7.heap.size ≤ W31.heap.size) := Lib.hid (Nat.le_trans HL_30.out hg31.size)
          clear hr31 hg31 hz31 HL_30 Ngp_30 Ngq_30 Nga_30 Ngb_30 RZ28_30 RZ30_30 HF_30
          refine storeW_P (i := 9) (oi := { dst := none, op := Op.store 35 (Operand.tmp 10) (Operand.tmp 28), type := 0, pos := "law.go:74", after := #[{ on := 7, ground := Ground.data }, { on := 5, ground := Ground.data }, { on := 8, ground := Ground.chain }, { on := 0, ground := Ground.phase }, { on := 1, ground := Ground.phase }, { on := 2, ground := Ground.phase }, { on := 3, ground := Ground.phase }, { on := 4, ground := Ground.phase }, { on := 5, ground := Ground.phase }, { on := 6, ground := Ground.phase }, { on := 7, ground := Ground.phase }, { on := 8, ground := Ground.phase }], guard := none }) rfl (by kernel_rfl) (by rfl) (.tmp 10) (.tmp 28) rfl (g28) [0, 0] yx yy rfl rfl RZ28_31.out rfl rfl ?_
          intro W32 hr32 hg32 hz32
          simp only [Act.put, List.setIfInBounds_toArray, List.set_cons_zero, List.set_cons_succ]
          have Ngp_32 := Lib.hid (Ngp_31.out.grown hg32 (by have := HX28_6.out; simp; omega))
          have Ngq_32 := Lib.hid (Ngq_31.out.grown hg32 (by have := HX28_7.out; simp; omega))
          have Nga_32 := Lib.hid (Nga_31.out.grown hg32 (by have := HX28_8.out; simp; omega))
          have Ngb_32 := Lib.hid (Ngb_31.out.grown hg32 (by have := HX28_9.out; simp; omega))
          have RZ28_32 : Hid (RAt W32 g28 [yx, yy]) := Lib.hid hr32
          have RZ30_32 := Lib.hid (RZ30_31.out.grown hg32 (by have := HX30_14.out; simp; omega))
          have HF_32 : Hid (Below w.heap.size w W32) := Lib.hid (HF_31.out.grown hg32 HF_31.out.size (fun r hr => by injection hr with hr; have := (show w.heap.size ≤ g28 from (by have := HG28.out; have := HLO8.out; omega)); omega))
          have HL_32 : Hid (x7.heap.size ≤ W32.heap.size) := Lib.hid (Nat.le_trans HL_31.out hg32.size)
          clear hr32 hg32 hz32 HL_31 Ngp_31 Ngq_31 Nga_31 Ngb_31 RZ28_31 RZ30_31 HF_31
          refine doneW (by kernel_rfl) ⟨rfl, ?_⟩ _
          exact ⟨g30, g28, Ngp_32.out, Ngq_32.out, Nga_32.out, Ngb_32.out, RZ30_32.out, RZ28_32.out, HG30.out, HG28.out, (by have := HX30_14.out; omega), HF_32.out, rfl⟩
        · refine wpOp_value (i := 6) (oi := { dst := some 9, op := Op.alloc 35, type := 0, pos := "law.go:74", after := #[], guard := none }) rfl (by rfl) (exec_alloc 35 rfl (.agg (zbs 64)) zero35 W28) ⟨fun _ => (below_alloc W28 _).mono HL_28.out, ?_⟩
          obtain ⟨W33, hW33, hb33, hz33⟩ := alloc_zeroP W28
          rw [← hW33]
          obtain ⟨g33, hg33⟩ : ∃ g, g = W28.heap.size := ⟨_, rfl⟩
          rw [← hg33] at hz33 ⊢
          have HG33 : Hid (x7.heap.size ≤ g33) := Lib.hid (by rw [hg33]; exact HL_28.out)
          have HX33_10 : Hid (w.heap.size ≠ g33) := Lib.hid (by have := Ngp_28.out.lt; omega)
          have HX33_11 : Hid (gq ≠ g33) := Lib.hid (by have := Ngq_28.out.lt; omega)
          have HX33_12 : Hid (ga ≠ g33) := Lib.hid (by have := Nga_28.out.lt; omega)
          have HX33_13 : Hid (gb ≠ g33) := Lib.hid (by have := Ngb_28.out.lt; omega)
          have HX33_14 : Hid (g28 ≠ g33) := Lib.hid (by have := RZ28_28.out.lt; omega)
          have Ngp_33 := Lib.hid (Ngp_28.out.keep hb33)
          have Ngq_33 := Lib.hid (Ngq_28.out.keep hb33)
          have Nga_33 := Lib.hid (Nga_28.out.keep hb33)
          have Ngb_33 := Lib.hid (Ngb_28.out.keep hb33)
          have RZ28_33 := Lib.hid (RZ28_28.out.keep hb33)
          have HF_33 : Hid (Below w.heap.size w W33) := Lib.hid (HF_28.out.trans (hb33.mono HF_28.out.size))
          have HL_33 : Hid (x7.heap.size ≤ W33.heap.size) := Lib.hid (Nat.le_trans HL_28.out hb33.size)
          have RZ33_33 : Hid (RAt W33 g33 [0, 0]) := Lib.hid (zrow (k := 2) hz33)
          clear hb33 hz33 hg33 hW33 HL_28 Ngp_28 Ngq_28 Nga_28 Ngb_28 RZ28_28 HF_28
          simp only [Act.put, List.setIfInBounds_toArray, List.set_cons_zero, List.set_cons_succ]
          refine callW (i := 5) (oi := { dst := some 28, op := Op.call { callee := Callee.value (Operand.func 41), args := #[Operand.tmp 26, Operand.tmp 27], argTypes := #[23, 35] }, type := 35, pos := "law.go:74", after := #[{ on := 3, ground := Ground.data }, { on := 4, ground := Ground.data }, { on := 2, ground := Ground.chain }], guard := none }) rfl (by kernel_rfl) (by rfl) (exec_callL 41 [.tmp 26, .tmp 27] #[23, 35] rfl [vN b, vR [qx, qy]] rfl (CG41 _)) ((C4.out W33).mono ?_)
          rintro e34 W34 ⟨rfl, hb34⟩
          refine ⟨_, rfl, fun _ => hb34.mono HL_33.out, ?_⟩
          have Ngp_34 := Lib.hid (Ngp_33.out.keep hb34)
          have Ngq_34 := Lib.hid (Ngq_33.out.keep hb34)
          have Nga_34 := Lib.hid (Nga_33.out.keep hb34)
          have Ngb_34 := Lib.hid (Ngb_33.out.keep hb34)
          have RZ28_34 := Lib.hid (RZ28_33.out.keep hb34)
          have RZ33_34 := Lib.hid (RZ33_33.out.keep hb34)
          have HF_34 : Hid (Below w.heap.size w W34) := Lib.hid (HF_33.out.trans (hb34.mono HF_33.out.size))
          have HL_34 : Hid (x7.heap.size ≤ W34.heap.size) := Lib.hid (Nat.le_trans HL_33.out hb34.size)
          clear hb34 HL_33 Ngp_33 Ngq_33 Nga_33 Ngb_33 RZ28_33 RZ33_33 HF_33
          simp only [Act.put, List.setIfInBounds_toArray, List.set_cons_zero, List.set_cons_succ]
          refine storeW_P (i := 8) (oi := { dst := none, op := Op.store 35 (Operand.tmp 9) (Operand.tmp 25), type := 0, pos := "law.go:74", after := #[{ on := 6, ground := Ground.data }, { on := 2, ground := Ground.data }, { on := 5, ground := Ground.chain }, { on := 0, ground := Ground.phase }, { on := 1, ground := Ground.phase }, { on := 2, ground := Ground.phase }, { on := 3, ground := Ground.textOnly Departure.lateStores }, { on := 4, ground := Ground.textOnly Departure.lateStores }, { on := 5, ground := Ground.textOnly Departure.lateStoresUnsure }, { on := 6, ground := Ground.phase }, { on := 7, ground := Ground.phase }], guard := none }) rfl (by kernel_rfl) (by rfl) (.tmp 9) (.tmp 25) rfl (g33) [0, 0] xx xy rfl rfl RZ33_34.out rfl rfl ?_
          intro W35 hr35 hg35 hz35
          simp only [Act.put, List.setIfInBounds_toArray, List.set_cons_zero, List.set_cons_succ]
          have Ngp_35 := Lib.hid (Ngp_34.out.grown hg35 (by have := HX33_10.out; simp; omega))
          have Ngq_35 := Lib.hid (Ngq_34.out.grown hg35 (by have := HX33_11.out; simp; omega))
          have Nga_35 := Lib.hid (Nga_34.out.grown hg35 (by have := HX33_12.out; simp; omega))
          have Ngb_35 := Lib.hid (Ngb_34.out.grown hg35 (by have := HX33_13.out; simp; omega))
          have RZ28_35 := Lib.hid (RZ28_34.out.grown hg35 (by have := HX33_14.out; simp; omega))
          have RZ33_35 : Hid (RAt W35 g33 [xx, xy]) := Lib.hid hr35
          have HF_35 : Hid (Below w.heap.size w W35) := Lib.hid (HF_34.out.grown hg35 HF_34.out.size (fun r hr => by injection hr with hr; have := (show w.heap.size ≤ g33 from (by have := HG33.out; have := HLO8.out; omega)); omega))
          have HL_35 : Hid (x7.heap.size ≤ W35.heap.size) := Lib.hid (Nat.le_trans HL_34.out hg35.size)
          clear hr35 hg35 hz35 HL_34 Ngp_34 Ngq_34 Nga_34 Ngb_34 RZ28_34 RZ33_34 HF_34
          refine storeW_P (i := 9) (oi := { dst := none, op := Op.store 35 (Operand.tmp 10) (Operand.tmp 28), type := 0, pos := "law.go:74", after := #[{ on := 7, ground := Ground.data }, { on := 5, ground := Ground.data }, { on := 8, ground := Ground.chain }, { on := 0, ground := Ground.phase }, { on := 1, ground := Ground.phase }, { on := 2, ground := Ground.phase }, { on := 3, ground := Ground.phase }, { on := 4, ground := Ground.phase }, { on := 5, ground := Ground.phase }, { on := 6, ground := Ground.phase }, { on := 7, ground := Ground.phase }, { on := 8, ground := Ground.phase }], guard := none }) rfl (by kernel_rfl) (by rfl) (.tmp 10) (.tmp 28) rfl (g28) [0, 0] yx yy rfl rfl RZ28_35.out rfl rfl ?_
          intro W36 hr36 hg36 hz36
          simp only [Act.put, List.setIfInBounds_toArray, List.set_cons_zero, List.set_cons_succ]
          have Ngp_36 := Lib.hid (Ngp_35.out.grown hg36 (by have := HX28_6.out; simp; omega))
          have Ngq_36 := Lib.hid (Ngq_35.out.grown hg36 (by have := HX28_7.out; simp; omega))
          have Nga_36 := Lib.hid (Nga_35.out.grown hg36 (by have := HX28_8.out; simp; omega))
          have Ngb_36 := Lib.hid (Ngb_35.out.grown hg36 (by have := HX28_9.out; simp; omega))
          have RZ28_36 : Hid (RAt W36 g28 [yx, yy]) := Lib.hid hr36
          have RZ33_36 := Lib.hid (RZ33_35.out.grown hg36 (by have := HX33_14.out; simp; omega))
          have HF_36 : Hid (Below w.heap.size w W36) := Lib.hid (HF_35.out.grown hg36 HF_35.out.size (fun r hr => by injection hr with hr; have := (show w.heap.size ≤ g28 from (by have := HG28.out; have := HLO8.out; omega)); omega))
          have HL_36 : Hid (x7.heap.size ≤ W36.heap.size) := Lib.hid (Nat.le_trans HL_35.out hg36.size)
          clear hr36 hg36 hz36 HL_35 Ngp_35 Ngq_35 Nga_35 Ngb_35 RZ28_35 RZ33_35 HF_35
          refine doneW (by kernel_rfl) ⟨rfl, ?_⟩ _
          exact ⟨g33, g28, Ngp_36.out, Ngq_36.out, Nga_36.out, Ngb_36.out, RZ33_36.out, RZ28_36.out, HG33.out, HG28.out, (by have := HX33_14.out; omega), HF_36.out, rfl⟩
    · refine wpOp_value (i := 6) (oi := { dst := some 9, op := Op.alloc 35, type := 0, pos := "law.go:74", after := #[], guard := none }) rfl (by rfl) (exec_alloc 35 rfl (.agg (zbs 64)) zero35 D8) ⟨fun _ => (below_alloc D8 _).mono HL_8.out, ?_⟩
      obtain ⟨W37, hW37, hb37, hz37⟩ := alloc_zeroP D8
      rw [← hW37]
      obtain ⟨g37, hg37⟩ : ∃ g, g = D8.heap.size := ⟨_, rfl⟩
      rw [← hg37] at hz37 ⊢
      have HG37 : Hid (x7.heap.size ≤ g37) := Lib.hid (by rw [hg37]; exact HL_8.out)
      have HX37_6 : Hid (w.heap.size ≠ g37) := Lib.hid (by have := Ngp_8.out.lt; omega)
      have HX37_7 : Hid (gq ≠ g37) := Lib.hid (by have := Ngq_8.out.lt; omega)
      have HX37_8 : Hid (ga ≠ g37) := Lib.hid (by have := Nga_8.out.lt; omega)
      have HX37_9 : Hid (gb ≠ g37) := Lib.hid (by have := Ngb_8.out.lt; omega)
      have Ngp_37 := Lib.hid (Ngp_8.out.keep hb37)
      have Ngq_37 := Lib.hid (Ngq_8.out.keep hb37)
      have Nga_37 := Lib.hid (Nga_8.out.keep hb37)
      have Ngb_37 := Lib.hid (Ngb_8.out.keep hb37)
      have HF_37 : Hid (Below w.heap.size w W37) := Lib.hid (HF_8.out.trans (hb37.mono HF_8.out.size))
      have HL_37 : Hid (x7.heap.size ≤ W37.heap.size) := Lib.hid (Nat.le_trans HL_8.out hb37.size)
      have RZ37_37 : Hid (RAt W37 g37 [0, 0]) := Lib.hid (zrow (k := 2) hz37)
      clear hb37 hz37 hg37 hW37 HL_8 Ngp_8 Ngq_8 Nga_8 Ngb_8 HF_8
      simp only [Act.put, List.setIfInBounds_toArray, List.set_cons_zero, List.set_cons_succ]
      refine eachW [2, 7] (by kernel_rfl) (by simp) ?_
      intro k hk
      simp only [List.mem_cons, List.not_mem_nil, or_false] at hk
      rcases hk with rfl | rfl
      · refine wpOp_call (i := 2) (oi := { dst := some 25, op := Op.call { callee := Callee.value (Operand.func 41), args := #[Operand.tmp 23, Operand.tmp 24], argTypes := #[23, 35] }, type := 35, pos := "law.go:74", after := #[{ on := 0, ground := Ground.data }, { on := 1, ground := Ground.data }], guard := none }) rfl (by rfl) (exec_callL 41 [.tmp 23, .tmp 24] #[23, 35] rfl [vN a, vR [px, py]] rfl (CG41 _)) ((C3.out W37).mono ?_)
        rintro e38 W38 ⟨rfl, hb38⟩
        refine ⟨_, rfl, fun _ => hb38.mono HL_37.out, ?_⟩
        have Ngp_38 := Lib.hid (Ngp_37.out.keep hb38)
        have Ngq_38 := Lib.hid (Ngq_37.out.keep hb38)
        have Nga_38 := Lib.hid (Nga_37.out.keep hb38)
        have Ngb_38 := Lib.hid (Ngb_37.out.keep hb38)
        have RZ37_38 := Lib.hid (RZ37_37.out.keep hb38)
        have HF_38 : Hid (Below w.heap.size w W38) := Lib.hid (HF_37.out.trans (hb38.mono HF_37.out.size))
        have HL_38 : Hid (x7.heap.size ≤ W38.heap.size) := Lib.hid (Nat.le_trans HL_37.out hb38.size)
        clear hb38 HL_37 Ngp_37 Ngq_37 Nga_37 Ngb_37 RZ37_37 HF_37
        simp only [Act.put, List.setIfInBounds_toArray, List.set_cons_zero, List.set_cons_succ]
        refine eachW [5, 7] (by kernel_rfl) (by simp) ?_
        intro k hk
        simp only [List.mem_cons, List.not_mem_nil, or_false] at hk
        rcases hk with rfl | rfl
        · refine wpOp_call (i := 5) (oi := { dst := some 28, op := Op.call { callee := Callee.value (Operand.func 41), args := #[Operand.tmp 26, Operand.tmp 27], argTypes := #[23, 35] }, type := 35, pos := "law.go:74", after := #[{ on := 3, ground := Ground.data }, { on := 4, ground := Ground.data }, { on := 2, ground := Ground.chain }], guard := none }) rfl (by rfl) (exec_callL 41 [.tmp 26, .tmp 27] #[23, 35] rfl [vN b, vR [qx, qy]] rfl (CG41 _)) ((C4.out W38).mono ?_)
          rintro e39 W39 ⟨rfl, hb39⟩
          refine ⟨_, rfl, fun _ => hb39.mono HL_38.out, ?_⟩
          have Ngp_39 := Lib.hid (Ngp_38.out.keep hb39)
          have Ngq_39 := Lib.hid (Ngq_38.out.keep hb39)
          have Nga_39 := Lib.hid (Nga_38.out.keep hb39)
          have Ngb_39 := Lib.hid (Ngb_38.out.keep hb39)
          have RZ37_39 := Lib.hid (RZ37_38.out.keep hb39)
          have HF_39 : Hid (Below w.heap.size w W39) := Lib.hid (HF_38.out.trans (hb39.mono HF_38.out.size))
          have HL_39 : Hid (x7.heap.size ≤ W39.heap.size) := Lib.hid (Nat.le_trans HL_38.out hb39.size)
          clear hb39 HL_38 Ngp_38 Ngq_38 Nga_38 Ngb_38 RZ37_38 HF_38
          simp only [Act.put, List.setIfInBounds_toArray, List.set_cons_zero, List.set_cons_succ]
          refine opW _ _ (i := 7) (oi := { dst := some 10, op := Op.alloc 35, type := 0, pos := "law.go:74", after := #[], guard := none }) rfl (by kernel_rfl) (by rfl) (exec_alloc 35 rfl (.agg (zbs 64)) zero35 W39) (fun _ => (below_alloc W39 _).mono HL_39.out) ?_
          obtain ⟨W40, hW40, hb40, hz40⟩ := alloc_zeroP W39
          rw [← hW40]
          obtain ⟨g40, hg40⟩ : ∃ g, g = W39.heap.size := ⟨_, rfl⟩
          rw [← hg40] at hz40 ⊢
          have HG40 : Hid (x7.heap.size ≤ g40) := Lib.hid (by rw [hg40]; exact HL_39.out)
          have HX40_10 : Hid (w.heap.size ≠ g40) := Lib.hid (by have := Ngp_39.out.lt; omega)
          have HX40_11 : Hid (gq ≠ g40) := Lib.hid (by have := Ngq_39.out.lt; omega)
          have HX40_12 : Hid (ga ≠ g40) := Lib.hid (by have := Nga_39.out.lt; omega)
          have HX40_13 : Hid (gb ≠ g40) := Lib.hid (by have := Ngb_39.out.lt; omega)
          have HX40_14 : Hid (g37 ≠ g40) := Lib.hid (by have := RZ37_39.out.lt; omega)
          have Ngp_40 := Lib.hid (Ngp_39.out.keep hb40)
          have Ngq_40 := Lib.hid (Ngq_39.out.keep hb40)
          have Nga_40 := Lib.hid (Nga_39.out.keep hb40)
          have Ngb_40 := Lib.hid (Ngb_39.out.keep hb40)
          have RZ37_40 := Lib.hid (RZ37_39.out.keep hb40)
          have HF_40 : Hid (Below w.heap.size w W40) := Lib.hid (HF_39.out.trans (hb40.mono HF_39.out.size))
          have HL_40 : Hid (x7.heap.size ≤ W40.heap.size) := Lib.hid (Nat.le_trans HL_39.out hb40.size)
          have RZ40_40 : Hid (RAt W40 g40 [0, 0]) := Lib.hid (zrow (k := 2) hz40)
          clear hb40 hz40 hg40 hW40 HL_39 Ngp_39 Ngq_39 Nga_39 Ngb_39 RZ37_39 HF_39
          simp only [Act.put, List.setIfInBounds_toArray, List.set_cons_zero, List.set_cons_succ]
          refine storeW_P (i := 8) (oi := { dst := none, op := Op.store 35 (Operand.tmp 9) (Operand.tmp 25), type := 0, pos := "law.go:74", after := #[{ on := 6, ground := Ground.data }, { on := 2, ground := Ground.data }, { on := 5, ground := Ground.chain }, { on := 0, ground := Ground.phase }, { on := 1, ground := Ground.phase }, { on := 2, ground := Ground.phase }, { on := 3, ground := Ground.textOnly Departure.lateStores }, { on := 4, ground := Ground.textOnly Departure.lateStores }, { on := 5, ground := Ground.textOnly Departure.lateStoresUnsure }, { on := 6, ground := Ground.phase }, { on := 7, ground := Ground.phase }], guard := none }) rfl (by kernel_rfl) (by rfl) (.tmp 9) (.tmp 25) rfl (g37) [0, 0] xx xy rfl rfl RZ37_40.out rfl rfl ?_
          intro W41 hr41 hg41 hz41
          simp only [Act.put, List.setIfInBounds_toArray, List.set_cons_zero, List.set_cons_succ]
          have Ngp_41 := Lib.hid (Ngp_40.out.grown hg41 (by have := HX37_6.out; simp; omega))
          have Ngq_41 := Lib.hid (Ngq_40.out.grown hg41 (by have := HX37_7.out; simp; omega))
          have Nga_41 := Lib.hid (Nga_40.out.grown hg41 (by have := HX37_8.out; simp; omega))
          have Ngb_41 := Lib.hid (Ngb_40.out.grown hg41 (by have := HX37_9.out; simp; omega))
          have RZ37_41 : Hid (RAt W41 g37 [xx, xy]) := Lib.hid hr41
          have RZ40_41 := Lib.hid (RZ40_40.out.grown hg41 (by have := HX40_14.out; simp; omega))
          have HF_41 : Hid (Below w.heap.size w W41) := Lib.hid (HF_40.out.grown hg41 HF_40.out.size (fun r hr => by injection hr with hr; have := (show w.heap.size ≤ g37 from (by have := HG37.out; have := HLO8.out; omega)); omega))
          have HL_41 : Hid (x7.heap.size ≤ W41.heap.size) := Lib.hid (Nat.le_trans HL_40.out hg41.size)
          clear hr41 hg41 hz41 HL_40 Ngp_40 Ngq_40 Nga_40 Ngb_40 RZ37_40 RZ40_40 HF_40
          refine storeW_P (i := 9) (oi := { dst := none, op := Op.store 35 (Operand.tmp 10) (Operand.tmp 28), type := 0, pos := "law.go:74", after := #[{ on := 7, ground := Ground.data }, { on := 5, ground := Ground.data }, { on := 8, ground := Ground.chain }, { on := 0, ground := Ground.phase }, { on := 1, ground := Ground.phase }, { on := 2, ground := Ground.phase }, { on := 3, ground := Ground.phase }, { on := 4, ground := Ground.phase }, { on := 5, ground := Ground.phase }, { on := 6, ground := Ground.phase }, { on := 7, ground := Ground.phase }, { on := 8, ground := Ground.phase }], guard := none }) rfl (by kernel_rfl) (by rfl) (.tmp 10) (.tmp 28) rfl (g40) [0, 0] yx yy rfl rfl RZ40_41.out rfl rfl ?_
          intro W42 hr42 hg42 hz42
          simp only [Act.put, List.setIfInBounds_toArray, List.set_cons_zero, List.set_cons_succ]
          have Ngp_42 := Lib.hid (Ngp_41.out.grown hg42 (by have := HX40_10.out; simp; omega))
          have Ngq_42 := Lib.hid (Ngq_41.out.grown hg42 (by have := HX40_11.out; simp; omega))
          have Nga_42 := Lib.hid (Nga_41.out.grown hg42 (by have := HX40_12.out; simp; omega))
          have Ngb_42 := Lib.hid (Ngb_41.out.grown hg42 (by have := HX40_13.out; simp; omega))
          have RZ37_42 := Lib.hid (RZ37_41.out.grown hg42 (by have := HX40_14.out; simp; omega))
          have RZ40_42 : Hid (RAt W42 g40 [yx, yy]) := Lib.hid hr42
          have HF_42 : Hid (Below w.heap.size w W42) := Lib.hid (HF_41.out.grown hg42 HF_41.out.size (fun r hr => by injection hr with hr; have := (show w.heap.size ≤ g40 from (by have := HG40.out; have := HLO8.out; omega)); omega))
          have HL_42 : Hid (x7.heap.size ≤ W42.heap.size) := Lib.hid (Nat.le_trans HL_41.out hg42.size)
          clear hr42 hg42 hz42 HL_41 Ngp_41 Ngq_41 Nga_41 Ngb_41 RZ37_41 RZ40_41 HF_41
          refine doneW (by kernel_rfl) ⟨rfl, ?_⟩ _
          exact ⟨g37, g40, Ngp_42.out, Ngq_42.out, Nga_42.out, Ngb_42.out, RZ37_42.out, RZ40_42.out, HG37.out, HG40.out, (by have := HX40_14.out; omega), HF_42.out, rfl⟩
        · refine wpOp_value (i := 7) (oi := { dst := some 10, op := Op.alloc 35, type := 0, pos := "law.go:74", after := #[], guard := none }) rfl (by rfl) (exec_alloc 35 rfl (.agg (zbs 64)) zero35 W38) ⟨fun _ => (below_alloc W38 _).mono HL_38.out, ?_⟩
          obtain ⟨W43, hW43, hb43, hz43⟩ := alloc_zeroP W38
          rw [← hW43]
          obtain ⟨g43, hg43⟩ : ∃ g, g = W38.heap.size := ⟨_, rfl⟩
          rw [← hg43] at hz43 ⊢
          have HG43 : Hid (x7.heap.size ≤ g43) := Lib.hid (by rw [hg43]; exact HL_38.out)
          have HX43_10 : Hid (w.heap.size ≠ g43) := Lib.hid (by have := Ngp_38.out.lt; omega)
          have HX43_11 : Hid (gq ≠ g43) := Lib.hid (by have := Ngq_38.out.lt; omega)
          have HX43_12 : Hid (ga ≠ g43) := Lib.hid (by have := Nga_38.out.lt; omega)
          have HX43_13 : Hid (gb ≠ g43) := Lib.hid (by have := Ngb_38.out.lt; omega)
          have HX43_14 : Hid (g37 ≠ g43) := Lib.hid (by have := RZ37_38.out.lt; omega)
          have Ngp_43 := Lib.hid (Ngp_38.out.keep hb43)
          have Ngq_43 := Lib.hid (Ngq_38.out.keep hb43)
          have Nga_43 := Lib.hid (Nga_38.out.keep hb43)
          have Ngb_43 := Lib.hid (Ngb_38.out.keep hb43)
          have RZ37_43 := Lib.hid (RZ37_38.out.keep hb43)
          have HF_43 : Hid (Below w.heap.size w W43) := Lib.hid (HF_38.out.trans (hb43.mono HF_38.out.size))
          have HL_43 : Hid (x7.heap.size ≤ W43.heap.size) := Lib.hid (Nat.le_trans HL_38.out hb43.size)
          have RZ43_43 : Hid (RAt W43 g43 [0, 0]) := Lib.hid (zrow (k := 2) hz43)
          clear hb43 hz43 hg43 hW43 HL_38 Ngp_38 Ngq_38 Nga_38 Ngb_38 RZ37_38 HF_38
          simp only [Act.put, List.setIfInBounds_toArray, List.set_cons_zero, List.set_cons_succ]
          refine callW (i := 5) (oi := { dst := some 28, op := Op.call { callee := Callee.value (Operand.func 41), args := #[Operand.tmp 26, Operand.tmp 27], argTypes := #[23, 35] }, type := 35, pos := "law.go:74", after := #[{ on := 3, ground := Ground.data }, { on := 4, ground := Ground.data }, { on := 2, ground := Ground.chain }], guard := none }) rfl (by kernel_rfl) (by rfl) (exec_callL 41 [.tmp 26, .tmp 27] #[23, 35] rfl [vN b, vR [qx, qy]] rfl (CG41 _)) ((C4.out W43).mono ?_)
          rintro e44 W44 ⟨rfl, hb44⟩
          refine ⟨_, rfl, fun _ => hb44.mono HL_43.out, ?_⟩
          have Ngp_44 := Lib.hid (Ngp_43.out.keep hb44)
          have Ngq_44 := Lib.hid (Ngq_43.out.keep hb44)
          have Nga_44 := Lib.hid (Nga_43.out.keep hb44)
          have Ngb_44 := Lib.hid (Ngb_43.out.keep hb44)
          have RZ37_44 := Lib.hid (RZ37_43.out.keep hb44)
          have RZ43_44 := Lib.hid (RZ43_43.out.keep hb44)
          have HF_44 : Hid (Below w.heap.size w W44) := Lib.hid (HF_43.out.trans (hb44.mono HF_43.out.size))
          have HL_44 : Hid (x7.heap.size ≤ W44.heap.size) := Lib.hid (Nat.le_trans HL_43.out hb44.size)
          clear hb44 HL_43 Ngp_43 Ngq_43 Nga_43 Ngb_43 RZ37_43 RZ43_43 HF_43
          simp only [Act.put, List.setIfInBounds_toArray, List.set_cons_zero, List.set_cons_succ]
          refine storeW_P (i := 8) (oi := { dst := none, op := Op.store 35 (Operand.tmp 9) (Operand.tmp 25), type := 0, pos := "law.go:74", after := #[{ on := 6, ground := Ground.data }, { on := 2, ground := Ground.data }, { on := 5, ground := Ground.chain }, { on := 0, ground := Ground.phase }, { on := 1, ground := Ground.phase }, { on := 2, ground := Ground.phase }, { on := 3, ground := Ground.textOnly Departure.lateStores }, { on := 4, ground := Ground.textOnly Departure.lateStores }, { on := 5, ground := Ground.textOnly Departure.lateStoresUnsure }, { on := 6, ground := Ground.phase }, { on := 7, ground := Ground.phase }], guard := none }) rfl (by kernel_rfl) (by rfl) (.tmp 9) (.tmp 25) rfl (g37) [0, 0] xx xy rfl rfl RZ37_44.out rfl rfl ?_
          intro W45 hr45 hg45 hz45
          simp only [Act.put, List.setIfInBounds_toArray, List.set_cons_zero, List.set_cons_succ]
          have Ngp_45 := Lib.hid (Ngp_44.out.grown hg45 (by have := HX37_6.out; simp; omega))
          have Ngq_45 := Lib.hid (Ngq_44.out.grown hg45 (by have := HX37_7.out; simp; omega))
          have Nga_45 := Lib.hid (Nga_44.out.grown hg45 (by have := HX37_8.out; simp; omega))
          have Ngb_45 := Lib.hid (Ngb_44.out.grown hg45 (by have := HX37_9.out; simp; omega))
          have RZ37_45 : Hid (RAt W45 g37 [xx, xy]) := Lib.hid hr45
          have RZ43_45 := Lib.hid (RZ43_44.out.grown hg45 (by have := HX43_14.out; simp; omega))
          have HF_45 : Hid (Below w.heap.size w W45) := Lib.hid (HF_44.out.grown hg45 HF_44.out.size (fun r hr => by injection hr with hr; have := (show w.heap.size ≤ g37 from (by have := HG37.out; have := HLO8.out; omega)); omega))
          have HL_45 : Hid (x7.heap.size ≤ W45.heap.size) := Lib.hid (Nat.le_trans HL_44.out hg45.size)
          clear hr45 hg45 hz45 HL_44 Ngp_44 Ngq_44 Nga_44 Ngb_44 RZ37_44 RZ43_44 HF_44
          refine storeW_P (i := 9) (oi := { dst := none, op := Op.store 35 (Operand.tmp 10) (Operand.tmp 28), type := 0, pos := "law.go:74", after := #[{ on := 7, ground := Ground.data }, { on := 5, ground := Ground.data }, { on := 8, ground := Ground.chain }, { on := 0, ground := Ground.phase }, { on := 1, ground := Ground.phase }, { on := 2, ground := Ground.phase }, { on := 3, ground := Ground.phase }, { on := 4, ground := Ground.phase }, { on := 5, ground := Ground.phase }, { on := 6, ground := Ground.phase }, { on := 7, ground := Ground.phase }, { on := 8, ground := Ground.phase }], guard := none }) rfl (by kernel_rfl) (by rfl) (.tmp 10) (.tmp 28) rfl (g43) [0, 0] yx yy rfl rfl RZ43_45.out rfl rfl ?_
          intro W46 hr46 hg46 hz46
          simp only [Act.put, List.setIfInBounds_toArray, List.set_cons_zero, List.set_cons_succ]
          have Ngp_46 := Lib.hid (Ngp_45.out.grown hg46 (by have := HX43_10.out; simp; omega))
          have Ngq_46 := Lib.hid (Ngq_45.out.grown hg46 (by have := HX43_11.out; simp; omega))
          have Nga_46 := Lib.hid (Nga_45.out.grown hg46 (by have := HX43_12.out; simp; omega))
          have Ngb_46 := Lib.hid (Ngb_45.out.grown hg46 (by have := HX43_13.out; simp; omega))
          have RZ37_46 := Lib.hid (RZ37_45.out.grown hg46 (by have := HX43_14.out; simp; omega))
          have RZ43_46 : Hid (RAt W46 g43 [yx, yy]) := Lib.hid hr46
          have HF_46 : Hid (Below w.heap.size w W46) := Lib.hid (HF_45.out.grown hg46 HF_45.out.size (fun r hr => by injection hr with hr; have := (show w.heap.size ≤ g43 from (by have := HG43.out; have := HLO8.out; omega)); omega))
          have HL_46 : Hid (x7.heap.size ≤ W46.heap.size) := Lib.hid (Nat.le_trans HL_45.out hg46.size)
          clear hr46 hg46 hz46 HL_45 Ngp_45 Ngq_45 Nga_45 Ngb_45 RZ37_45 RZ43_45 HF_45
          refine doneW (by kernel_rfl) ⟨rfl, ?_⟩ _
          exact ⟨g37, g43, Ngp_46.out, Ngq_46.out, Nga_46.out, Ngb_46.out, RZ37_46.out, RZ43_46.out, HG37.out, HG43.out, (by have := HX43_14.out; omega), HF_46.out, rfl⟩
      · refine wpOp_value (i := 7) (oi := { dst := some 10, op := Op.alloc 35, type := 0, pos := "law.go:74", after := #[], guard := none }) rfl (by rfl) (exec_alloc 35 rfl (.agg (zbs 64)) zero35 W37) ⟨fun _ => (below_alloc W37 _).mono HL_37.out, ?_⟩
        obtain ⟨W47, hW47, hb47, hz47⟩ := alloc_zeroP W37
        rw [← hW47]
        obtain ⟨g47, hg47⟩ : ∃ g, g = W37.heap.size := ⟨_, rfl⟩
        rw [← hg47] at hz47 ⊢
        have HG47 : Hid (x7.heap.size ≤ g47) := Lib.hid (by rw [hg47]; exact HL_37.out)
        have HX47_10 : Hid (w.heap.size ≠ g47) := Lib.hid (by have := Ngp_37.out.lt; omega)
        have HX47_11 : Hid (gq ≠ g47) := Lib.hid (by have := Ngq_37.out.lt; omega)
        have HX47_12 : Hid (ga ≠ g47) := Lib.hid (by have := Nga_37.out.lt; omega)
        have HX47_13 : Hid (gb ≠ g47) := Lib.hid (by have := Ngb_37.out.lt; omega)
        have HX47_14 : Hid (g37 ≠ g47) := Lib.hid (by have := RZ37_37.out.lt; omega)
        have Ngp_47 := Lib.hid (Ngp_37.out.keep hb47)
        have Ngq_47 := Lib.hid (Ngq_37.out.keep hb47)
        have Nga_47 := Lib.hid (Nga_37.out.keep hb47)
        have Ngb_47 := Lib.hid (Ngb_37.out.keep hb47)
        have RZ37_47 := Lib.hid (RZ37_37.out.keep hb47)
        have HF_47 : Hid (Below w.heap.size w W47) := Lib.hid (HF_37.out.trans (hb47.mono HF_37.out.size))
        have HL_47 : Hid (x7.heap.size ≤ W47.heap.size) := Lib.hid (Nat.le_trans HL_37.out hb47.size)
        have RZ47_47 : Hid (RAt W47 g47 [0, 0]) := Lib.hid (zrow (k := 2) hz47)
        clear hb47 hz47 hg47 hW47 HL_37 Ngp_37 Ngq_37 Nga_37 Ngb_37 RZ37_37 HF_37
        simp only [Act.put, List.setIfInBounds_toArray, List.set_cons_zero, List.set_cons_succ]
        refine callW (i := 2) (oi := { dst := some 25, op := Op.call { callee := Callee.value (Operand.func 41), args := #[Operand.tmp 23, Operand.tmp 24], argTypes := #[23, 35] }, type := 35, pos := "law.go:74", after := #[{ on := 0, ground := Ground.data }, { on := 1, ground := Ground.data }], guard := none }) rfl (by kernel_rfl) (by rfl) (exec_callL 41 [.tmp 23, .tmp 24] #[23, 35] rfl [vN a, vR [px, py]] rfl (CG41 _)) ((C3.out W47).mono ?_)
        rintro e48 W48 ⟨rfl, hb48⟩
        refine ⟨_, rfl, fun _ => hb48.mono HL_47.out, ?_⟩
        have Ngp_48 := Lib.hid (Ngp_47.out.keep hb48)
        have Ngq_48 := Lib.hid (Ngq_47.out.keep hb48)
        have Nga_48 := Lib.hid (Nga_47.out.keep hb48)
        have Ngb_48 := Lib.hid (Ngb_47.out.keep hb48)
        have RZ37_48 := Lib.hid (RZ37_47.out.keep hb48)
        have RZ47_48 := Lib.hid (RZ47_47.out.keep hb48)
        have HF_48 : Hid (Below w.heap.size w W48) := Lib.hid (HF_47.out.trans (hb48.mono HF_47.out.size))
        have HL_48 : Hid (x7.heap.size ≤ W48.heap.size) := Lib.hid (Nat.le_trans HL_47.out hb48.size)
        clear hb48 HL_47 Ngp_47 Ngq_47 Nga_47 Ngb_47 RZ37_47 RZ47_47 HF_47
        simp only [Act.put, List.setIfInBounds_toArray, List.set_cons_zero, List.set_cons_succ]
        refine callW (i := 5) (oi := { dst := some 28, op := Op.call { callee := Callee.value (Operand.func 41), args := #[Operand.tmp 26, Operand.tmp 27], argTypes := #[23, 35] }, type := 35, pos := "law.go:74", after := #[{ on := 3, ground := Ground.data }, { on := 4, ground := Ground.data }, { on := 2, ground := Ground.chain }], guard := none }) rfl (by kernel_rfl) (by rfl) (exec_callL 41 [.tmp 26, .tmp 27] #[23, 35] rfl [vN b, vR [qx, qy]] rfl (CG41 _)) ((C4.out W48).mono ?_)
        rintro e49 W49 ⟨rfl, hb49⟩
        refine ⟨_, rfl, fun _ => hb49.mono HL_48.out, ?_⟩
        have Ngp_49 := Lib.hid (Ngp_48.out.keep hb49)
        have Ngq_49 := Lib.hid (Ngq_48.out.keep hb49)
        have Nga_49 := Lib.hid (Nga_48.out.keep hb49)
        have Ngb_49 := Lib.hid (Ngb_48.out.keep hb49)
        have RZ37_49 := Lib.hid (RZ37_48.out.keep hb49)
        have RZ47_49 := Lib.hid (RZ47_48.out.keep hb49)
        have HF_49 : Hid (Below w.heap.size w W49) := Lib.hid (HF_48.out.trans (hb49.mono HF_48.out.size))
        have HL_49 : Hid (x7.heap.size ≤ W49.heap.size) := Lib.hid (Nat.le_trans HL_48.out hb49.size)
        clear hb49 HL_48 Ngp_48 Ngq_48 Nga_48 Ngb_48 RZ37_48 RZ47_48 HF_48
        simp only [Act.put, List.setIfInBounds_toArray, List.set_cons_zero, List.set_cons_succ]
        refine storeW_P (i := 8) (oi := { dst := none, op := Op.store 35 (Operand.tmp 9) (Operand.tmp 25), type := 0, pos := "law.go:74", after := #[{ on := 6, ground := Ground.data }, { on := 2, ground := Ground.data }, { on := 5, ground := Ground.chain }, { on := 0, ground := Ground.phase }, { on := 1, ground := Ground.phase }, { on := 2, ground := Ground.phase }, { on := 3, ground := Ground.textOnly Departure.lateStores }, { on := 4, ground := Ground.textOnly Departure.lateStores }, { on := 5, ground := Ground.textOnly Departure.lateStoresUnsure }, { on := 6, ground := Ground.phase }, { on := 7, ground := Ground.phase }], guard := none }) rfl (by kernel_rfl) (by rfl) (.tmp 9) (.tmp 25) rfl (g37) [0, 0] xx xy rfl rfl RZ37_49.out rfl rfl ?_
        intro W50 hr50 hg50 hz50
        simp only [Act.put, List.setIfInBounds_toArray, List.set_cons_zero, List.set_cons_succ]
        have Ngp_50 := Lib.hid (Ngp_49.out.grown hg50 (by have := HX37_6.out; simp; omega))
        have Ngq_50 := Lib.hid (Ngq_49.out.grown hg50 (by have := HX37_7.out; simp; omega))
        have Nga_50 := Lib.hid (Nga_49.out.grown hg50 (by have := HX37_8.out; simp; omega))
        have Ngb_50 := Lib.hid (Ngb_49.out.grown hg50 (by have := HX37_9.out; simp; omega))
        have RZ37_50 : Hid (RAt W50 g37 [xx, xy]) := Lib.hid hr50
        have RZ47_50 := Lib.hid (RZ47_49.out.grown hg50 (by have := HX47_14.out; simp; omega))
        have HF_50 : Hid (Below w.heap.size w W50) := Lib.hid (HF_49.out.grown hg50 HF_49.out.size (fun r hr => by injection hr with hr; have := (show w.heap.size ≤ g37 from (by have := HG37.out; have := HLO8.out; omega)); omega))
        have HL_50 : Hid (x7.heap.size ≤ W50.heap.size) := Lib.hid (Nat.le_trans HL_49.out hg50.size)
        clear hr50 hg50 hz50 HL_49 Ngp_49 Ngq_49 Nga_49 Ngb_49 RZ37_49 RZ47_49 HF_49
        refine storeW_P (i := 9) (oi := { dst := none, op := Op.store 35 (Operand.tmp 10) (Operand.tmp 28), type := 0, pos := "law.go:74", after := #[{ on := 7, ground := Ground.data }, { on := 5, ground := Ground.data }, { on := 8, ground := Ground.chain }, { on := 0, ground := Ground.phase }, { on := 1, ground := Ground.phase }, { on := 2, ground := Ground.phase }, { on := 3, ground := Ground.phase }, { on := 4, ground := Ground.phase }, { on := 5, ground := Ground.phase }, { on := 6, ground := Ground.phase }, { on := 7, ground := Ground.phase }, { on := 8, ground := Ground.phase }], guard := none }) rfl (by kernel_rfl) (by rfl) (.tmp 10) (.tmp 28) rfl (g47) [0, 0] yx yy rfl rfl RZ47_50.out rfl rfl ?_
        intro W51 hr51 hg51 hz51
        simp only [Act.put, List.setIfInBounds_toArray, List.set_cons_zero, List.set_cons_succ]
        have Ngp_51 := Lib.hid (Ngp_50.out.grown hg51 (by have := HX47_10.out; simp; omega))
        have Ngq_51 := Lib.hid (Ngq_50.out.grown hg51 (by have := HX47_11.out; simp; omega))
        have Nga_51 := Lib.hid (Nga_50.out.grown hg51 (by have := HX47_12.out; simp; omega))
        have Ngb_51 := Lib.hid (Ngb_50.out.grown hg51 (by have := HX47_13.out; simp; omega))
        have RZ37_51 := Lib.hid (RZ37_50.out.grown hg51 (by have := HX47_14.out; simp; omega))
        have RZ47_51 : Hid (RAt W51 g47 [yx, yy]) := Lib.hid hr51
        have HF_51 : Hid (Below w.heap.size w W51) := Lib.hid (HF_50.out.grown hg51 HF_50.out.size (fun r hr => by injection hr with hr; have := (show w.heap.size ≤ g47 from (by have := HG47.out; have := HLO8.out; omega)); omega))
        have HL_51 : Hid (x7.heap.size ≤ W51.heap.size) := Lib.hid (Nat.le_trans HL_50.out hg51.size)
        clear hr51 hg51 hz51 HL_50 Ngp_50 Ngq_50 Nga_50 Ngb_50 RZ37_50 RZ47_50 HF_50
        refine doneW (by kernel_rfl) ⟨rfl, ?_⟩ _
        exact ⟨g37, g47, Ngp_51.out, Ngq_51.out, Nga_51.out, Ngb_51.out, RZ37_51.out, RZ47_51.out, HG37.out, HG47.out, (by have := HX47_14.out; omega), HF_51.out, rfl⟩
    · refine wpOp_value (i := 7) (oi := { dst := some 10, op := Op.alloc 35, type := 0, pos := "law.go:74", after := #[], guard := none }) rfl (by rfl) (exec_alloc 35 rfl (.agg (zbs 64)) zero35 D8) ⟨fun _ => (below_alloc D8 _).mono HL_8.out, ?_⟩
      obtain ⟨W52, hW52, hb52, hz52⟩ := alloc_zeroP D8
      rw [← hW52]
      obtain ⟨g52, hg52⟩ : ∃ g, g = D8.heap.size := ⟨_, rfl⟩
      rw [← hg52] at hz52 ⊢
      have HG52 : Hid (x7.heap.size ≤ g52) := Lib.hid (by rw [hg52]; exact HL_8.out)
      have HX52_6 : Hid (w.heap.size ≠ g52) := Lib.hid (by have := Ngp_8.out.lt; omega)
      have HX52_7 : Hid (gq ≠ g52) := Lib.hid (by have := Ngq_8.out.lt; omega)
      have HX52_8 : Hid (ga ≠ g52) := Lib.hid (by have := Nga_8.out.lt; omega)
      have HX52_9 : Hid (gb ≠ g52) := Lib.hid (by have := Ngb_8.out.lt; omega)
      have Ngp_52 := Lib.hid (Ngp_8.out.keep hb52)
      have Ngq_52 := Lib.hid (Ngq_8.out.keep hb52)
      have Nga_52 := Lib.hid (Nga_8.out.keep hb52)
      have Ngb_52 := Lib.hid (Ngb_8.out.keep hb52)
      have HF_52 : Hid (Below w.heap.size w W52) := Lib.hid (HF_8.out.trans (hb52.mono HF_8.out.size))
      have HL_52 : Hid (x7.heap.size ≤ W52.heap.size) := Lib.hid (Nat.le_trans HL_8.out hb52.size)
      have RZ52_52 : Hid (RAt W52 g52 [0, 0]) := Lib.hid (zrow (k := 2) hz52)
      clear hb52 hz52 hg52 hW52 HL_8 Ngp_8 Ngq_8 Nga_8 Ngb_8 HF_8
      simp only [Act.put, List.setIfInBounds_toArray, List.set_cons_zero, List.set_cons_succ]
      refine eachW [2, 6] (by kernel_rfl) (by simp) ?_
      intro k hk
      simp only [List.mem_cons, List.not_mem_nil, or_false] at hk
      rcases hk with rfl | rfl
      · refine wpOp_call (i := 2) (oi := { dst := some 25, op := Op.call { callee := Callee.value (Operand.func 41), args := #[Operand.tmp 23, Operand.tmp 24], argTypes := #[23, 35] }, type := 35, pos := "law.go:74", after := #[{ on := 0, ground := Ground.data }, { on := 1, ground := Ground.data }], guard := none }) rfl (by rfl) (exec_callL 41 [.tmp 23, .tmp 24] #[23, 35] rfl [vN a, vR [px, py]] rfl (CG41 _)) ((C3.out W52).mono ?_)
        rintro e53 W53 ⟨rfl, hb53⟩
        refine ⟨_, rfl, fun _ => hb53.mono HL_52.out, ?_⟩
        have Ngp_53 := Lib.hid (Ngp_52.out.keep hb53)
        have Ngq_53 := Lib.hid (Ngq_52.out.keep hb53)
        have Nga_53 := Lib.hid (Nga_52.out.keep hb53)
        have Ngb_53 := Lib.hid (Ngb_52.out.keep hb53)
        have RZ52_53 := Lib.hid (RZ52_52.out.keep hb53)
        have HF_53 : Hid (Below w.heap.size w W53) := Lib.hid (HF_52.out.trans (hb53.mono HF_52.out.size))
        have HL_53 : Hid (x7.heap.size ≤ W53.heap.size) := Lib.hid (Nat.le_trans HL_52.out hb53.size)
        clear hb53 HL_52 Ngp_52 Ngq_52 Nga_52 Ngb_52 RZ52_52 HF_52
        simp only [Act.put, List.setIfInBounds_toArray, List.set_cons_zero, List.set_cons_succ]
        refine eachW [5, 6] (by kernel_rfl) (by simp) ?_
        intro k hk
        simp only [List.mem_cons, List.not_mem_nil, or_false] at hk
        rcases hk with rfl | rfl
        · refine wpOp_call (i := 5) (oi := { dst := some 28, op := Op.call { callee := Callee.value (Operand.func 41), args := #[Operand.tmp 26, Operand.tmp 27], argTypes := #[23, 35] }, type := 35, pos := "law.go:74", after := #[{ on := 3, ground := Ground.data }, { on := 4, ground := Ground.data }, { on := 2, ground := Ground.chain }], guard := none }) rfl (by rfl) (exec_callL 41 [.tmp 26, .tmp 27] #[23, 35] rfl [vN b, vR [qx, qy]] rfl (CG41 _)) ((C4.out W53).mono ?_)
          rintro e54 W54 ⟨rfl, hb54⟩
          refine ⟨_, rfl, fun _ => hb54.mono HL_53.out, ?_⟩
          have Ngp_54 := Lib.hid (Ngp_53.out.keep hb54)
          have Ngq_54 := Lib.hid (Ngq_53.out.keep hb54)
          have Nga_54 := Lib.hid (Nga_53.out.keep hb54)
          have Ngb_54 := Lib.hid (Ngb_53.out.keep hb54)
          have RZ52_54 := Lib.hid (RZ52_53.out.keep hb54)
          have HF_54 : Hid (Below w.heap.size w W54) := Lib.hid (HF_53.out.trans (hb54.mono HF_53.out.size))
          have HL_54 : Hid (x7.heap.size ≤ W54.heap.size) := Lib.hid (Nat.le_trans HL_53.out hb54.size)
          clear hb54 HL_53 Ngp_53 Ngq_53 Nga_53 Ngb_53 RZ52_53 HF_53
          simp only [Act.put, List.setIfInBounds_toArray, List.set_cons_zero, List.set_cons_succ]
          refine opW _ _ (i := 6) (oi := { dst := some 9, op := Op.alloc 35, type := 0, pos := "law.go:74", after := #[], guard := none }) rfl (by kernel_rfl) (by rfl) (exec_alloc 35 rfl (.agg (zbs 64)) zero35 W54) (fun _ => (below_alloc W54 _).mono HL_54.out) ?_
          obtain ⟨W55, hW55, hb55, hz55⟩ := alloc_zeroP W54
          rw [← hW55]
          obtain ⟨g55, hg55⟩ : ∃ g, g = W54.heap.size := ⟨_, rfl⟩
          rw [← hg55] at hz55 ⊢
          have HG55 : Hid (x7.heap.size ≤ g55) := Lib.hid (by rw [hg55]; exact HL_54.out)
          have HX55_10 : Hid (w.heap.size ≠ g55) := Lib.hid (by have := Ngp_54.out.lt; omega)
          have HX55_11 : Hid (gq ≠ g55) := Lib.hid (by have := Ngq_54.out.lt; omega)
          have HX55_12 : Hid (ga ≠ g55) := Lib.hid (by have := Nga_54.out.lt; omega)
          have HX55_13 : Hid (gb ≠ g55) := Lib.hid (by have := Ngb_54.out.lt; omega)
          have HX55_14 : Hid (g52 ≠ g55) := Lib.hid (by have := RZ52_54.out.lt; omega)
          have Ngp_55 := Lib.hid (Ngp_54.out.keep hb55)
          have Ngq_55 := Lib.hid (Ngq_54.out.keep hb55)
          have Nga_55 := Lib.hid (Nga_54.out.keep hb55)
          have Ngb_55 := Lib.hid (Ngb_54.out.keep hb55)
          have RZ52_55 := Lib.hid (RZ52_54.out.keep hb55)
          have HF_55 : Hid (Below w.heap.size w W55) := Lib.hid (HF_54.out.trans (hb55.mono HF_54.out.size))
          have HL_55 : Hid (x7.heap.size ≤ W55.heap.size) := Lib.hid (Nat.le_trans HL_54.out hb55.size)
          have RZ55_55 : Hid (RAt W55 g55 [0, 0]) := Lib.hid (zrow (k := 2) hz55)
          clear hb55 hz55 hg55 hW55 HL_54 Ngp_54 Ngq_54 Nga_54 Ngb_54 RZ52_54 HF_54
          simp only [Act.put, List.setIfInBounds_toArray, List.set_cons_zero, List.set_cons_succ]
          refine storeW_P (i := 8) (oi := { dst := none, op := Op.store 35 (Operand.tmp 9) (Operand.tmp 25), type := 0, pos := "law.go:74", after := #[{ on := 6, ground := Ground.data }, { on := 2, ground := Ground.data }, { on := 5, ground := Ground.chain }, { on := 0, ground := Ground.phase }, { on := 1, ground := Ground.phase }, { on := 2, ground := Ground.phase }, { on := 3, ground := Ground.textOnly Departure.lateStores }, { on := 4, ground := Ground.textOnly Departure.lateStores }, { on := 5, ground := Ground.textOnly Departure.lateStoresUnsure }, { on := 6, ground := Ground.phase }, { on := 7, ground := Ground.phase }], guard := none }) rfl (by kernel_rfl) (by rfl) (.tmp 9) (.tmp 25) rfl (g55) [0, 0] xx xy rfl rfl RZ55_55.out rfl rfl ?_
          intro W56 hr56 hg56 hz56
          simp only [Act.put, List.setIfInBounds_toArray, List.set_cons_zero, List.set_cons_succ]
          have Ngp_56 := Lib.hid (Ngp_55.out.grown hg56 (by have := HX55_10.out; simp; omega))
          have Ngq_56 := Lib.hid (Ngq_55.out.grown hg56 (by have := HX55_11.out; simp; omega))
          have Nga_56 := Lib.hid (Nga_55.out.grown hg56 (by have := HX55_12.out; simp; omega))
          have Ngb_56 := Lib.hid (Ngb_55.out.grown hg56 (by have := HX55_13.out; simp; omega))
          have RZ52_56 := Lib.hid (RZ52_55.out.grown hg56 (by have := HX55_14.out; simp; omega))
          have RZ55_56 : Hid (RAt W56 g55 [xx, xy]) := Lib.hid hr56
          have HF_56 : Hid (Below w.heap.size w W56) := Lib.hid (HF_55.out.grown hg56 HF_55.out.size (fun r hr => by injection hr with hr; have := (show w.heap.size ≤ g55 from (by have := HG55.out; have := HLO8.out; omega)); omega))
          have HL_56 : Hid (x7.heap.size ≤ W56.heap.size) := Lib.hid (Nat.le_trans HL_55.out hg56.size)
          clear hr56 hg56 hz56 HL_55 Ngp_55 Ngq_55 Nga_55 Ngb_55 RZ52_55 RZ55_55 HF_55
          refine storeW_P (i := 9) (oi := { dst := none, op := Op.store 35 (Operand.tmp 10) (Operand.tmp 28), type := 0, pos := "law.go:74", after := #[{ on := 7, ground := Ground.data }, { on := 5, ground := Ground.data }, { on := 8, ground := Ground.chain }, { on := 0, ground := Ground.phase }, { on := 1, ground := Ground.phase }, { on := 2, ground := Ground.phase }, { on := 3, ground := Ground.phase }, { on := 4, ground := Ground.phase }, { on := 5, ground := Ground.phase }, { on := 6, ground := Ground.phase }, { on := 7, ground := Ground.phase }, { on := 8, ground := Ground.phase }], guard := none }) rfl (by kernel_rfl) (by rfl) (.tmp 10) (.tmp 28) rfl (g52) [0, 0] yx yy rfl rfl RZ52_56.out rfl rfl ?_
          intro W57 hr57 hg57 hz57
          simp only [Act.put, List.setIfInBounds_toArray, List.set_cons_zero, List.set_cons_succ]
          have Ngp_57 := Lib.hid (Ngp_56.out.grown hg57 (by have := HX52_6.out; simp; omega))
          have Ngq_57 := Lib.hid (Ngq_56.out.grown hg57 (by have := HX52_7.out; simp; omega))
          have Nga_57 := Lib.hid (Nga_56.out.grown hg57 (by have := HX52_8.out; simp; omega))
          have Ngb_57 := Lib.hid (Ngb_56.out.grown hg57 (by have := HX52_9.out; simp; omega))
          have RZ52_57 : Hid (RAt W57 g52 [yx, yy]) := Lib.hid hr57
          have RZ55_57 := Lib.hid (RZ55_56.out.grown hg57 (by have := HX55_14.out; simp; omega))
          have HF_57 : Hid (Below w.heap.size w W57) := Lib.hid (HF_56.out.grown hg57 HF_56.out.size (fun r hr => by injection hr with hr; have := (show w.heap.size ≤ g52 from (by have := HG52.out; have := HLO8.out; omega)); omega))
          have HL_57 : Hid (x7.heap.size ≤ W57.heap.size) := Lib.hid (Nat.le_trans HL_56.out hg57.size)
          clear hr57 hg57 hz57 HL_56 Ngp_56 Ngq_56 Nga_56 Ngb_56 RZ52_56 RZ55_56 HF_56
          refine doneW (by kernel_rfl) ⟨rfl, ?_⟩ _
          exact ⟨g55, g52, Ngp_57.out, Ngq_57.out, Nga_57.out, Ngb_57.out, RZ55_57.out, RZ52_57.out, HG55.out, HG52.out, (by have := HX55_14.out; omega), HF_57.out, rfl⟩
        · refine wpOp_value (i := 6) (oi := { dst := some 9, op := Op.alloc 35, type := 0, pos := "law.go:74", after := #[], guard := none }) rfl (by rfl) (exec_alloc 35 rfl (.agg (zbs 64)) zero35 W53) ⟨fun _ => (below_alloc W53 _).mono HL_53.out, ?_⟩
          obtain ⟨W58, hW58, hb58, hz58⟩ := alloc_zeroP W53
          rw [← hW58]
          obtain ⟨g58, hg58⟩ : ∃ g, g = W53.heap.size := ⟨_, rfl⟩
          rw [← hg58] at hz58 ⊢
          have HG58 : Hid (x7.heap.size ≤ g58) := Lib.hid (by rw [hg58]; exact HL_53.out)
          have HX58_10 : Hid (w.heap.size ≠ g58) := Lib.hid (by have := Ngp_53.out.lt; omega)
          have HX58_11 : Hid (gq ≠ g58) := Lib.hid (by have := Ngq_53.out.lt; omega)
          have HX58_12 : Hid (ga ≠ g58) := Lib.hid (by have := Nga_53.out.lt; omega)
          have HX58_13 : Hid (gb ≠ g58) := Lib.hid (by have := Ngb_53.out.lt; omega)
          have HX58_14 : Hid (g52 ≠ g58) := Lib.hid (by have := RZ52_53.out.lt; omega)
          have Ngp_58 := Lib.hid (Ngp_53.out.keep hb58)
          have Ngq_58 := Lib.hid (Ngq_53.out.keep hb58)
          have Nga_58 := Lib.hid (Nga_53.out.keep hb58)
          have Ngb_58 := Lib.hid (Ngb_53.out.keep hb58)
          have RZ52_58 := Lib.hid (RZ52_53.out.keep hb58)
          have HF_58 : Hid (Below w.heap.size w W58) := Lib.hid (HF_53.out.trans (hb58.mono HF_53.out.size))
          have HL_58 : Hid (x7.heap.size ≤ W58.heap.size) := Lib.hid (Nat.le_trans HL_53.out hb58.size)
          have RZ58_58 : Hid (RAt W58 g58 [0, 0]) := Lib.hid (zrow (k := 2) hz58)
          clear hb58 hz58 hg58 hW58 HL_53 Ngp_53 Ngq_53 Nga_53 Ngb_53 RZ52_53 HF_53
          simp only [Act.put, List.setIfInBounds_toArray, List.set_cons_zero, List.set_cons_succ]
          refine callW (i := 5) (oi := { dst := some 28, op := Op.call { callee := Callee.value (Operand.func 41), args := #[Operand.tmp 26, Operand.tmp 27], argTypes := #[23, 35] }, type := 35, pos := "law.go:74", after := #[{ on := 3, ground := Ground.data }, { on := 4, ground := Ground.data }, { on := 2, ground := Ground.chain }], guard := none }) rfl (by kernel_rfl) (by rfl) (exec_callL 41 [.tmp 26, .tmp 27] #[23, 35] rfl [vN b, vR [qx, qy]] rfl (CG41 _)) ((C4.out W58).mono ?_)
          rintro e59 W59 ⟨rfl, hb59⟩
          refine ⟨_, rfl, fun _ => hb59.mono HL_58.out, ?_⟩
          have Ngp_59 := Lib.hid (Ngp_58.out.keep hb59)
          have Ngq_59 := Lib.hid (Ngq_58.out.keep hb59)
          have Nga_59 := Lib.hid (Nga_58.out.keep hb59)
          have Ngb_59 := Lib.hid (Ngb_58.out.keep hb59)
          have RZ52_59 := Lib.hid (RZ52_58.out.keep hb59)
          have RZ58_59 := Lib.hid (RZ58_58.out.keep hb59)
          have HF_59 : Hid (Below w.heap.size w W59) := Lib.hid (HF_58.out.trans (hb59.mono HF_58.out.size))
          have HL_59 : Hid (x7.heap.size ≤ W59.heap.size) := Lib.hid (Nat.le_trans HL_58.out hb59.size)
          clear hb59 HL_58 Ngp_58 Ngq_58 Nga_58 Ngb_58 RZ52_58 RZ58_58 HF_58
          simp only [Act.put, List.setIfInBounds_toArray, List.set_cons_zero, List.set_cons_succ]
          refine storeW_P (i := 8) (oi := { dst := none, op := Op.store 35 (Operand.tmp 9) (Operand.tmp 25), type := 0, pos := "law.go:74", after := #[{ on := 6, ground := Ground.data }, { on := 2, ground := Ground.data }, { on := 5, ground := Ground.chain }, { on := 0, ground := Ground.phase }, { on := 1, ground := Ground.phase }, { on := 2, ground := Ground.phase }, { on := 3, ground := Ground.textOnly Departure.lateStores }, { on := 4, ground := Ground.textOnly Departure.lateStores }, { on := 5, ground := Ground.textOnly Departure.lateStoresUnsure }, { on := 6, ground := Ground.phase }, { on := 7, ground := Ground.phase }], guard := none }) rfl (by kernel_rfl) (by rfl) (.tmp 9) (.tmp 25) rfl (g58) [0, 0] xx xy rfl rfl RZ58_59.out rfl rfl ?_
          intro W60 hr60 hg60 hz60
          simp only [Act.put, List.setIfInBounds_toArray, List.set_cons_zero, List.set_cons_succ]
          have Ngp_60 := Lib.hid (Ngp_59.out.grown hg60 (by have := HX58_10.out; simp; omega))
          have Ngq_60 := Lib.hid (Ngq_59.out.grown hg60 (by have := HX58_11.out; simp; omega))
          have Nga_60 := Lib.hid (Nga_59.out.grown hg60 (by have := HX58_12.out; simp; omega))
          have Ngb_60 := Lib.hid (Ngb_59.out.grown hg60 (by have := HX58_13.out; simp; omega))
          have RZ52_60 := Lib.hid (RZ52_59.out.grown hg60 (by have := HX58_14.out; simp; omega))
          have RZ58_60 : Hid (RAt W60 g58 [xx, xy]) := Lib.hid hr60
          have HF_60 : Hid (Below w.heap.size w W60) := Lib.hid (HF_59.out.grown hg60 HF_59.out.size (fun r hr => by injection hr with hr; have := (show w.heap.size ≤ g58 from (by have := HG58.out; have := HLO8.out; omega)); omega))
          have HL_60 : Hid (x7.heap.size ≤ W60.heap.size) := Lib.hid (Nat.le_trans HL_59.out hg60.size)
          clear hr60 hg60 hz60 HL_59 Ngp_59 Ngq_59 Nga_59 Ngb_59 RZ52_59 RZ58_59 HF_59
          refine storeW_P (i := 9) (oi := { dst := none, op := Op.store 35 (Operand.tmp 10) (Operand.tmp 28), type := 0, pos := "law.go:74", after := #[{ on := 7, ground := Ground.data }, { on := 5, ground := Ground.data }, { on := 8, ground := Ground.chain }, { on := 0, ground := Ground.phase }, { on := 1, ground := Ground.phase }, { on := 2, ground := Ground.phase }, { on := 3, ground := Ground.phase }, { on := 4, ground := Ground.phase }, { on := 5, ground := Ground.phase }, { on := 6, ground := Ground.phase }, { on := 7, ground := Ground.phase }, { on := 8, ground := Ground.phase }], guard := none }) rfl (by kernel_rfl) (by rfl) (.tmp 10) (.tmp 28) rfl (g52) [0, 0] yx yy rfl rfl RZ52_60.out rfl rfl ?_
          intro W61 hr61 hg61 hz61
          simp only [Act.put, List.setIfInBounds_toArray, List.set_cons_zero, List.set_cons_succ]
          have Ngp_61 := Lib.hid (Ngp_60.out.grown hg61 (by have := HX52_6.out; simp; omega))
          have Ngq_61 := Lib.hid (Ngq_60.out.grown hg61 (by have := HX52_7.out; simp; omega))
          have Nga_61 := Lib.hid (Nga_60.out.grown hg61 (by have := HX52_8.out; simp; omega))
          have Ngb_61 := Lib.hid (Ngb_60.out.grown hg61 (by have := HX52_9.out; simp; omega))
          have RZ52_61 : Hid (RAt W61 g52 [yx, yy]) := Lib.hid hr61
          have RZ58_61 := Lib.hid (RZ58_60.out.grown hg61 (by have := HX58_14.out; simp; omega))
          have HF_61 : Hid (Below w.heap.size w W61) := Lib.hid (HF_60.out.grown hg61 HF_60.out.size (fun r hr => by injection hr with hr; have := (show w.heap.size ≤ g52 from (by have := HG52.out; have := HLO8.out; omega)); omega))
          have HL_61 : Hid (x7.heap.size ≤ W61.heap.size) := Lib.hid (Nat.le_trans HL_60.out hg61.size)
          clear hr61 hg61 hz61 HL_60 Ngp_60 Ngq_60 Nga_60 Ngb_60 RZ52_60 RZ58_60 HF_60
          refine doneW (by kernel_rfl) ⟨rfl, ?_⟩ _
          exact ⟨g58, g52, Ngp_61.out, Ngq_61.out, Nga_61.out, Ngb_61.out, RZ58_61.out, RZ52_61.out, HG58.out, HG52.out, (by have := HX58_14.out; omega), HF_61.out, rfl⟩
      · refine wpOp_value (i := 6) (oi := { dst := some 9, op := Op.alloc 35, type := 0, pos := "law.go:74", after := #[], guard := none }) rfl (by rfl) (exec_alloc 35 rfl (.agg (zbs 64)) zero35 W52) ⟨fun _ => (below_alloc W52 _).mono HL_52.out, ?_⟩
        obtain ⟨W62, hW62, hb62, hz62⟩ := alloc_zeroP W52
        rw [← hW62]
        obtain ⟨g62, hg62⟩ : ∃ g, g = W52.heap.size := ⟨_, rfl⟩
        rw [← hg62] at hz62 ⊢
        have HG62 : Hid (x7.heap.size ≤ g62) := Lib.hid (by rw [hg62]; exact HL_52.out)
        have HX62_10 : Hid (w.heap.size ≠ g62) := Lib.hid (by have := Ngp_52.out.lt; omega)
        have HX62_11 : Hid (gq ≠ g62) := Lib.hid (by have := Ngq_52.out.lt; omega)
        have HX62_12 : Hid (ga ≠ g62) := Lib.hid (by have := Nga_52.out.lt; omega)
        have HX62_13 : Hid (gb ≠ g62) := Lib.hid (by have := Ngb_52.out.lt; omega)
        have HX62_14 : Hid (g52 ≠ g62) := Lib.hid (by have := RZ52_52.out.lt; omega)
        have Ngp_62 := Lib.hid (Ngp_52.out.keep hb62)
        have Ngq_62 := Lib.hid (Ngq_52.out.keep hb62)
        have Nga_62 := Lib.hid (Nga_52.out.keep hb62)
        have Ngb_62 := Lib.hid (Ngb_52.out.keep hb62)
        have RZ52_62 := Lib.hid (RZ52_52.out.keep hb62)
        have HF_62 : Hid (Below w.heap.size w W62) := Lib.hid (HF_52.out.trans (hb62.mono HF_52.out.size))
        have HL_62 : Hid (x7.heap.size ≤ W62.heap.size) := Lib.hid (Nat.le_trans HL_52.out hb62.size)
        have RZ62_62 : Hid (RAt W62 g62 [0, 0]) := Lib.hid (zrow (k := 2) hz62)
        clear hb62 hz62 hg62 hW62 HL_52 Ngp_52 Ngq_52 Nga_52 Ngb_52 RZ52_52 HF_52
        simp only [Act.put, List.setIfInBounds_toArray, List.set_cons_zero, List.set_cons_succ]
        refine callW (i := 2) (oi := { dst := some 25, op := Op.call { callee := Callee.value (Operand.func 41), args := #[Operand.tmp 23, Operand.tmp 24], argTypes := #[23, 35] }, type := 35, pos := "law.go:74", after := #[{ on := 0, ground := Ground.data }, { on := 1, ground := Ground.data }], guard := none }) rfl (by kernel_rfl) (by rfl) (exec_callL 41 [.tmp 23, .tmp 24] #[23, 35] rfl [vN a, vR [px, py]] rfl (CG41 _)) ((C3.out W62).mono ?_)
        rintro e63 W63 ⟨rfl, hb63⟩
        refine ⟨_, rfl, fun _ => hb63.mono HL_62.out, ?_⟩
        have Ngp_63 := Lib.hid (Ngp_62.out.keep hb63)
        have Ngq_63 := Lib.hid (Ngq_62.out.keep hb63)
        have Nga_63 := Lib.hid (Nga_62.out.keep hb63)
        have Ngb_63 := Lib.hid (Ngb_62.out.keep hb63)
        have RZ52_63 := Lib.hid (RZ52_62.out.keep hb63)
        have RZ62_63 := Lib.hid (RZ62_62.out.keep hb63)
        have HF_63 : Hid (Below w.heap.size w W63) := Lib.hid (HF_62.out.trans (hb63.mono HF_62.out.size))
        have HL_63 : Hid (x7.heap.size ≤ W63.heap.size) := Lib.hid (Nat.le_trans HL_62.out hb63.size)
        clear hb63 HL_62 Ngp_62 Ngq_62 Nga_62 Ngb_62 RZ52_62 RZ62_62 HF_62
        simp only [Act.put, List.setIfInBounds_toArray, List.set_cons_zero, List.set_cons_succ]
        refine callW (i := 5) (oi := { dst := some 28, op := Op.call { callee := Callee.value (Operand.func 41), args := #[Operand.tmp 26, Operand.tmp 27], argTypes := #[23, 35] }, type := 35, pos := "law.go:74", after := #[{ on := 3, ground := Ground.data }, { on := 4, ground := Ground.data }, { on := 2, ground := Ground.chain }], guard := none }) rfl (by kernel_rfl) (by rfl) (exec_callL 41 [.tmp 26, .tmp 27] #[23, 35] rfl [vN b, vR [qx, qy]] rfl (CG41 _)) ((C4.out W63).mono ?_)
        rintro e64 W64 ⟨rfl, hb64⟩
        refine ⟨_, rfl, fun _ => hb64.mono HL_63.out, ?_⟩
        have Ngp_64 := Lib.hid (Ngp_63.out.keep hb64)
        have Ngq_64 := Lib.hid (Ngq_63.out.keep hb64)
        have Nga_64 := Lib.hid (Nga_63.out.keep hb64)
        have Ngb_64 := Lib.hid (Ngb_63.out.keep hb64)
        have RZ52_64 := Lib.hid (RZ52_63.out.keep hb64)
        have RZ62_64 := Lib.hid (RZ62_63.out.keep hb64)
        have HF_64 : Hid (Below w.heap.size w W64) := Lib.hid (HF_63.out.trans (hb64.mono HF_63.out.size))
        have HL_64 : Hid (x7.heap.size ≤ W64.heap.size) := Lib.hid (Nat.le_trans HL_63.out hb64.size)
        clear hb64 HL_63 Ngp_63 Ngq_63 Nga_63 Ngb_63 RZ52_63 RZ62_63 HF_63
        simp only [Act.put, List.setIfInBounds_toArray, List.set_cons_zero, List.set_cons_succ]
        refine storeW_P (i := 8) (oi := { dst := none, op := Op.store 35 (Operand.tmp 9) (Operand.tmp 25), type := 0, pos := "law.go:74", after := #[{ on := 6, ground := Ground.data }, { on := 2, ground := Ground.data }, { on := 5, ground := Ground.chain }, { on := 0, ground := Ground.phase }, { on := 1, ground := Ground.phase }, { on := 2, ground := Ground.phase }, { on := 3, ground := Ground.textOnly Departure.lateStores }, { on := 4, ground := Ground.textOnly Departure.lateStores }, { on := 5, ground := Ground.textOnly Departure.lateStoresUnsure }, { on := 6, ground := Ground.phase }, { on := 7, ground := Ground.phase }], guard := none }) rfl (by kernel_rfl) (by rfl) (.tmp 9) (.tmp 25) rfl (g62) [0, 0] xx xy rfl rfl RZ62_64.out rfl rfl ?_
        intro W65 hr65 hg65 hz65
        simp only [Act.put, List.setIfInBounds_toArray, List.set_cons_zero, List.set_cons_succ]
        have Ngp_65 := Lib.hid (Ngp_64.out.grown hg65 (by have := HX62_10.out; simp; omega))
        have Ngq_65 := Lib.hid (Ngq_64.out.grown hg65 (by have := HX62_11.out; simp; omega))
        have Nga_65 := Lib.hid (Nga_64.out.grown hg65 (by have := HX62_12.out; simp; omega))
        have Ngb_65 := Lib.hid (Ngb_64.out.grown hg65 (by have := HX62_13.out; simp; omega))
        have RZ52_65 := Lib.hid (RZ52_64.out.grown hg65 (by have := HX62_14.out; simp; omega))
        have RZ62_65 : Hid (RAt W65 g62 [xx, xy]) := Lib.hid hr65
        have HF_65 : Hid (Below w.heap.size w W65) := Lib.hid (HF_64.out.grown hg65 HF_64.out.size (fun r hr => by injection hr with hr; have := (show w.heap.size ≤ g62 from (by have := HG62.out; have := HLO8.out; omega)); omega))
        have HL_65 : Hid (x7.heap.size ≤ W65.heap.size) := Lib.hid (Nat.le_trans HL_64.out hg65.size)
        clear hr65 hg65 hz65 HL_64 Ngp_64 Ngq_64 Nga_64 Ngb_64 RZ52_64 RZ62_64 HF_64
        refine storeW_P (i := 9) (oi := { dst := none, op := Op.store 35 (Operand.tmp 10) (Operand.tmp 28), type := 0, pos := "law.go:74", after := #[{ on := 7, ground := Ground.data }, { on := 5, ground := Ground.data }, { on := 8, ground := Ground.chain }, { on := 0, ground := Ground.phase }, { on := 1, ground := Ground.phase }, { on := 2, ground := Ground.phase }, { on := 3, ground := Ground.phase }, { on := 4, ground := Ground.phase }, { on := 5, ground := Ground.phase }, { on := 6, ground := Ground.phase }, { on := 7, ground := Ground.phase }, { on := 8, ground := Ground.phase }], guard := none }) rfl (by kernel_rfl) (by rfl) (.tmp 10) (.tmp 28) rfl (g52) [0, 0] yx yy rfl rfl RZ52_65.out rfl rfl ?_
        intro W66 hr66 hg66 hz66
        simp only [Act.put, List.setIfInBounds_toArray, List.set_cons_zero, List.set_cons_succ]
        have Ngp_66 := Lib.hid (Ngp_65.out.grown hg66 (by have := HX52_6.out; simp; omega))
        have Ngq_66 := Lib.hid (Ngq_65.out.grown hg66 (by have := HX52_7.out; simp; omega))
        have Nga_66 := Lib.hid (Nga_65.out.grown hg66 (by have := HX52_8.out; simp; omega))
        have Ngb_66 := Lib.hid (Ngb_65.out.grown hg66 (by have := HX52_9.out; simp; omega))
        have RZ52_66 : Hid (RAt W66 g52 [yx, yy]) := Lib.hid hr66
        have RZ62_66 := Lib.hid (RZ62_65.out.grown hg66 (by have := HX62_14.out; simp; omega))
        have HF_66 : Hid (Below w.heap.size w W66) := Lib.hid (HF_65.out.grown hg66 HF_65.out.size (fun r hr => by injection hr with hr; have := (show w.heap.size ≤ g52 from (by have := HG52.out; have := HLO8.out; omega)); omega))
        have HL_66 : Hid (x7.heap.size ≤ W66.heap.size) := Lib.hid (Nat.le_trans HL_65.out hg66.size)
        clear hr66 hg66 hz66 HL_65 Ngp_65 Ngq_65 Nga_65 Ngb_65 RZ52_65 RZ62_65 HF_65
        refine doneW (by kernel_rfl) ⟨rfl, ?_⟩ _
        exact ⟨g62, g52, Ngp_66.out, Ngq_66.out, Nga_66.out, Ngb_66.out, RZ62_66.out, RZ52_66.out, HG62.out, HG52.out, (by have := HX62_14.out; omega), HF_66.out, rfl⟩
  rintro a' v67 ⟨a8_0, a8_1, h0, h1, h2, h3, h4, h5, k0, k1, q0, hF, rfl⟩
  have Ngp_67 := Lib.hid h0
  have Ngq_67 := Lib.hid h1
  have Nga_67 := Lib.hid h2
  have Ngb_67 := Lib.hid h3
  have Na8_0_67 := Lib.hid h4
  have Na8_1_67 := Lib.hid h5
  have HNE67_6 : Hid (w.heap.size ≠ a8_0) := Lib.hid (by have := HLT8_0.out; omega)
  have HNE67_7 : Hid (gq ≠ a8_0) := Lib.hid (by have := HLT8_1.out; omega)
  have HNE67_8 : Hid (ga ≠ a8_0) := Lib.hid (by have := HLT8_2.out; omega)
  have HNE67_9 : Hid (gb ≠ a8_0) := Lib.hid (by have := HLT8_3.out; omega)
  have HGE67_0 : Hid (w.heap.size ≤ a8_0) := Lib.hid (by have := HLO8.out; omega)
  have HNE67_10 : Hid (w.heap.size ≠ a8_1) := Lib.hid (by have := HLT8_0.out; omega)
  have HNE67_11 : Hid (gq ≠ a8_1) := Lib.hid (by have := HLT8_1.out; omega)
  have HNE67_12 : Hid (ga ≠ a8_1) := Lib.hid (by have := HLT8_2.out; omega)
  have HNE67_13 : Hid (gb ≠ a8_1) := Lib.hid (by have := HLT8_3.out; omega)
  have HGE67_1 : Hid (w.heap.size ≤ a8_1) := Lib.hid (by have := HLO8.out; omega)
  have HNE67_14 := Lib.hid q0
  have HF_67 := Lib.hid hF
  clear h0 h1 h2 h3 h4 h5 k0 k1 q0 hF HLT8_0 HLT8_1 HLT8_2 HLT8_3 HLO8 Ngp_7 Ngq_7 Nga_7 Ngb_7 HF_7
  go_wp2_with fail
  refine region_wq2 (by kernel_rfl) (by kernel_rfl) (by kernel_rfl) ?_
  refine wq_loadF rfl (.tmp 6) rfl (ga) 0 0 rfl [a] a rfl Nga_67.out rfl ?_
  simp only [Act.put, List.setIfInBounds_toArray, List.set_cons_zero, List.set_cons_succ]
  refine wq_loadP rfl (.tmp 4) rfl (w.heap.size) px py rfl Ngp_67.out ?_
  simp only [Act.put, List.setIfInBounds_toArray, List.set_cons_zero, List.set_cons_succ]
  refine wq_loadF rfl (.tmp 7) rfl (gb) 0 0 rfl [b] b rfl Ngb_67.out rfl ?_
  simp only [Act.put, List.setIfInBounds_toArray, List.set_cons_zero, List.set_cons_succ]
  refine wq_loadP rfl (.tmp 5) rfl (gq) qx qy rfl Ngq_67.out ?_
  simp only [Act.put, List.setIfInBounds_toArray, List.set_cons_zero, List.set_cons_succ]
  refine wq_call rfl 53 [.tmp 29, .tmp 30, .tmp 31, .tmp 32] #[23, 35, 23, 35] rfl [vN a, vR [px, py], vN b, vR [qx, qy]] rfl (CG53 _) (vR [sx, sy]) C5.out ?_
  simp only [Act.put, List.setIfInBounds_toArray, List.set_cons_zero, List.set_cons_succ]
  refine wq_loadP rfl (.tmp 9) rfl (a8_0) xx xy rfl Na8_0_67.out ?_
  simp only [Act.put, List.setIfInBounds_toArray, List.set_cons_zero, List.set_cons_succ]
  refine wq_loadP rfl (.tmp 10) rfl (a8_1) yx yy rfl Na8_1_67.out ?_
  simp only [Act.put, List.setIfInBounds_toArray, List.set_cons_zero, List.set_cons_succ]
  refine wq_call rfl 44 [.tmp 34, .tmp 35] #[35, 35] rfl [vR [xx, xy], vR [yx, yy]] rfl (CG44 _) (vR [sx, sy]) C6.out ?_
  simp only [Act.put, List.setIfInBounds_toArray, List.set_cons_zero, List.set_cons_succ]
  refine wq_neqP rfl (.tmp 33) (.tmp 36) rfl sx sy sx sy rfl rfl true false (eqP_same _ _) rfl ?_
  simp only [Act.put, List.setIfInBounds_toArray, List.set_cons_zero, List.set_cons_succ]
  refine wq_move rfl (.tmp 37) rfl (.bool false) rfl ?_
  simp only [Act.put, List.setIfInBounds_toArray, List.set_cons_zero, List.set_cons_succ]
  refine wq_loadF rfl (.tmp 6) rfl (ga) 0 0 rfl [a] a rfl Nga_67.out rfl ?_
  simp only [Act.put, List.setIfInBounds_toArray, List.set_cons_zero, List.set_cons_succ]
  refine wq_loadP rfl (.tmp 4) rfl (w.heap.size) px py rfl Ngp_67.out ?_
  simp only [Act.put, List.setIfInBounds_toArray, List.set_cons_zero, List.set_cons_succ]
  refine wq_loadP rfl (.tmp 5) rfl (gq) qx qy rfl Ngq_67.out ?_
  simp only [Act.put, List.setIfInBounds_toArray, List.set_cons_zero, List.set_cons_succ]
  refine wq_call rfl 44 [.tmp 40, .tmp 41] #[35, 35] rfl [vR [px, py], vR [qx, qy]] rfl (CG44 _) (vR [ux, uy]) C7.out ?_
  simp only [Act.put, List.setIfInBounds_toArray, List.set_cons_zero, List.set_cons_succ]
  refine wq_call rfl 41 [.tmp 39, .tmp 42] #[23, 35] rfl [vN a, vR [ux, uy]] rfl (CG41 _) (vR [tx, ty]) C8.out ?_
  simp only [Act.put, List.setIfInBounds_toArray, List.set_cons_zero, List.set_cons_succ]
  as_aux_lemma =>
    refine wq_loadP rfl (.tmp 9) rfl (a8_0) xx xy rfl Na8_0_67.out ?_
    simp only [Act.put, List.setIfInBounds_toArray, List.set_cons_zero, List.set_cons_succ]
    refine wq_loadF rfl (.tmp 6) rfl (ga) 0 0 rfl [a] a rfl Nga_67.out rfl ?_
    simp only [Act.put, List.setIfInBounds_toArray, List.set_cons_zero, List.set_cons_succ]
    refine wq_loadP rfl (.tmp 5) rfl (gq) qx qy rfl Ngq_67.out ?_
    simp only [Act.put, List.setIfInBounds_toArray, List.set_cons_zero, List.set_cons_succ]
    refine wq_call rfl 41 [.tmp 45, .tmp 46] #[23, 35] rfl [vN a, vR [qx, qy]] rfl (CG41 _) (vR [vx, vy]) C9.out ?_
    simp only [Act.put, List.setIfInBounds_toArray, List.set_cons_zero, List.set_cons_succ]
    refine wq_call rfl 44 [.tmp 44, .tmp 47] #[35, 35] rfl [vR [xx, xy], vR [vx, vy]] rfl (CG44 _) (vR [tx, ty]) C10.out ?_
    simp only [Act.put, List.setIfInBounds_toArray, List.set_cons_zero, List.set_cons_succ]
    refine wq_neqP rfl (.tmp 43) (.tmp 48) rfl tx ty tx ty rfl rfl true false (eqP_same _ _) rfl ?_
    simp only [Act.put, List.setIfInBounds_toArray, List.set_cons_zero, List.set_cons_succ]
    refine wq_pick rfl (.tmp 38) (.const (.bool true)) (.tmp 49) rfl false rfl (.bool false) rfl ?_
    simp only [Act.put, List.setIfInBounds_toArray, List.set_cons_zero, List.set_cons_succ]
    refine wq_move rfl (.tmp 50) rfl (.bool false) rfl ?_
    simp only [Act.put, List.setIfInBounds_toArray, List.set_cons_zero, List.set_cons_succ]
    refine wq_zero rfl rfl ?_
    simp only [Act.put, List.setIfInBounds_toArray, List.set_cons_zero, List.set_cons_succ]
    refine wq_loadP rfl (.tmp 4) rfl (w.heap.size) px py rfl Ngp_67.out ?_
    simp only [Act.put, List.setIfInBounds_toArray, List.set_cons_zero, List.set_cons_succ]
    refine wq_call rfl 41 [.tmp 52, .tmp 53] #[23, 35] rfl [vN 0, vR [px, py]] rfl (CG41 _) (vR [0, 1]) C11.out ?_
    simp only [Act.put, List.setIfInBounds_toArray, List.set_cons_zero, List.set_cons_succ]
    refine wq_call rfl 39 [] #[] rfl [] rfl (CG39 _) (vR [0, 1]) C12.out ?_
    simp only [Act.put, List.setIfInBounds_toArray, List.set_cons_zero, List.set_cons_succ]
    refine wq_neqP rfl (.tmp 54) (.tmp 55) rfl 0 1 0 1 rfl rfl true false (eqP_same _ _) rfl ?_
    simp only [Act.put, List.setIfInBounds_toArray, List.set_cons_zero, List.set_cons_succ]
    refine wq_pick rfl (.tmp 51) (.const (.bool true)) (.tmp 56) rfl false rfl (.bool false) rfl ?_
    simp only [Act.put, List.setIfInBounds_toArray, List.set_cons_zero, List.set_cons_succ]
    refine wq_move rfl (.tmp 57) rfl (.bool false) rfl ?_
    simp only [Act.put, List.setIfInBounds_toArray, List.set_cons_zero, List.set_cons_succ]
    as_aux_lemma =>
      refine wq_buildc rfl 23 _ (vN 1) rfl (fun w => by kernel_rfl) ?_
      simp only [Act.put, List.setIfInBounds_toArray, List.set_cons_zero, List.set_cons_succ]
      refine wq_loadP rfl (.tmp 4) rfl (w.heap.size) px py rfl Ngp_67.out ?_
      simp only [Act.put, List.setIfInBounds_toArray, List.set_cons_zero, List.set_cons_succ]
      refine wq_call rfl 41 [.tmp 59, .tmp 60] #[23, 35] rfl [vN 1, vR [px, py]] rfl (CG41 _) (vR [px, py]) C13.out ?_
      simp only [Act.put, List.setIfInBounds_toArray, List.set_cons_zero, List.set_cons_succ]
      refine wq_loadP rfl (.tmp 4) rfl (w.heap.size) px py rfl Ngp_67.out ?_
      simp only [Act.put, List.setIfInBounds_toArray, List.set_cons_zero, List.set_cons_succ]
      refine wq_neqP rfl (.tmp 61) (.tmp 62) rfl px py px py rfl rfl true false (eqP_same _ _) rfl ?_
      simp only [Act.put, List.setIfInBounds_toArray, List.set_cons_zero, List.set_cons_succ]
      refine wq_pick rfl (.tmp 58) (.const (.bool true)) (.tmp 63) rfl false rfl (.bool false) rfl ?_
      simp only [Act.put, List.setIfInBounds_toArray, List.set_cons_zero, List.set_cons_succ]
      refine wq_move rfl (.tmp 64) rfl (.bool false) rfl ?_
      simp only [Act.put, List.setIfInBounds_toArray, List.set_cons_zero, List.set_cons_succ]
      refine wq_buildc rfl 23 _ (vN 2) rfl (fun w => by kernel_rfl) ?_
      simp only [Act.put, List.setIfInBounds_toArray, List.set_cons_zero, List.set_cons_succ]
      refine wq_loadP rfl (.tmp 4) rfl (w.heap.size) px py rfl Ngp_67.out ?_
      simp only [Act.put, List.setIfInBounds_toArray, List.set_cons_zero, List.set_cons_succ]
      refine wq_call rfl 41 [.tmp 66, .tmp 67] #[23, 35] rfl [vN 2, vR [px, py]] rfl (CG41 _) (vR [dx, dy]) C14.out ?_
      simp only [Act.put, List.setIfInBounds_toArray, List.set_cons_zero, List.set_cons_succ]
      refine wq_loadP rfl (.tmp 4) rfl (w.heap.size) px py rfl Ngp_67.out ?_
      simp only [Act.put, List.setIfInBounds_toArray, List.set_cons_zero, List.set_cons_succ]
      refine wq_loadP rfl (.tmp 4) rfl (w.heap.size) px py rfl Ngp_67.out ?_
      simp only [Act.put, List.setIfInBounds_toArray, List.set_cons_zero, List.set_cons_succ]
      refine wq_call rfl 44 [.tmp 69, .tmp 70] #[35, 35] rfl [vR [px, py], vR [px, py]] rfl (CG44 _) (vR [dx, dy]) C15.out ?_
      simp only [Act.put, List.setIfInBounds_toArray, List.set_cons_zero, List.set_cons_succ]
      refine wq_neqP rfl (.tmp 68) (.tmp 71) rfl dx dy dx dy rfl rfl true false (eqP_same _ _) rfl ?_
      simp only [Act.put, List.setIfInBounds_toArray, List.set_cons_zero, List.set_cons_succ]
      refine wq_pick rfl (.tmp 65) (.const (.bool true)) (.tmp 72) rfl false rfl (.bool false) rfl ?_
      simp only [Act.put, List.setIfInBounds_toArray, List.set_cons_zero, List.set_cons_succ]
      refine wq_nil ?_
      intro W68 hb68
      have Ngp_68 := Lib.hid (Ngp_67.out.keep hb68)
      have Ngq_68 := Lib.hid (Ngq_67.out.keep hb68)
      have Nga_68 := Lib.hid (Nga_67.out.keep hb68)
      have Ngb_68 := Lib.hid (Ngb_67.out.keep hb68)
      have Na8_0_68 := Lib.hid (Na8_0_67.out.keep hb68)
      have Na8_1_68 := Lib.hid (Na8_1_67.out.keep hb68)
      have HF_68 : Hid (Below w.heap.size w W68) := Lib.hid (HF_67.out.trans (hb68.mono HF_67.out.size))
      clear hb68 Ngp_67 Ngq_67 Nga_67 Ngb_67 Na8_0_67 Na8_1_67 HF_67
      go_wp2_with fail
      refine (C16.out _).mono ?_
      rintro e69 x69 ⟨rfl, hb69⟩
      have Ngp_69 := Lib.hid (Ngp_68.out.keep hb69)
      have Ngq_69 := Lib.hid (Ngq_68.out.keep hb69)
      have Nga_69 := Lib.hid (Nga_68.out.keep hb69)
      have Ngb_69 := Lib.hid (Ngb_68.out.keep hb69)
      have Na8_0_69 := Lib.hid (Na8_0_68.out.keep hb69)
      have Na8_1_69 := Lib.hid (Na8_1_68.out.keep hb69)
      have HF_69 : Hid (Below w.heap.size w x69) := Lib.hid (HF_68.out.trans (hb69.mono HF_68.out.size))
      clear hb69 Ngp_68 Ngq_68 Nga_68 Ngb_68 Na8_0_68 Na8_1_68 HF_68
      go_wp2_with (first | ((with_reducible show wpList _ _ _ (⟨some 11, .alloc 35, _, _, _, _⟩ :: _) _ _); go_must (refine wpList_alloc_row rfl 35 rfl (.agg (zbs 64)) zero35 ?_; intro u70 ha70 hza70 hga70; have HA70 := Lib.hid ha70; have HZA70 := Lib.hid hza70; have HGA70 := Lib.hid hga70; clear ha70 hza70 hga70)) | ((with_reducible show wpList _ _ _ (⟨none, .store 35 (.tmp 11) (.tmp 74), _, _, _, _⟩ :: _) _ _); go_must (refine wpList_storeP rfl (.tmp 11) (.tmp 74) rfl (x69.heap.size) [0, 0] gx gy rfl rfl (zrow (k := 2) HA70.out) rfl ?_; intro y70 hr70 hg70 hz70; have Ngp_70 := Lib.hid ((Ngp_69.out.grown HGA70.out (by simp)).grown hg70 (by have := Ngp_69.out.lt; simp; omega)); have Ngq_70 := Lib.hid ((Ngq_69.out.grown HGA70.out (by simp)).grown hg70 (by have := Ngq_69.out.lt; simp; omega)); have Nga_70 := Lib.hid ((Nga_69.out.grown HGA70.out (by simp)).grown hg70 (by have := Nga_69.out.lt; simp; omega)); have Ngb_70 := Lib.hid ((Ngb_69.out.grown HGA70.out (by simp)).grown hg70 (by have := Ngb_69.out.lt; simp; omega)); have Na8_0_70 := Lib.hid ((Na8_0_69.out.grown HGA70.out (by simp)).grown hg70 (by have := Na8_0_69.out.lt; simp; omega)); have Na8_1_70 := Lib.hid ((Na8_1_69.out.grown HGA70.out (by simp)).grown hg70 (by have := Na8_1_69.out.lt; simp; omega)); have Ngg_70 : Hid (RAt y70 x69.heap.size [gx, gy]) := Lib.hid hr70; have HF_70 : Hid (Below w.heap.size w y70) := Lib.hid ((HF_69.out.grown HGA70.out HF_69.out.size (by simp)).grown hg70 (by have := HF_69.out.size; have := HZA70.out; omega) (fun r hr => by injection hr with hr; have := HF_69.out.size; omega)); have HNE70_15 : Hid (w.heap.size ≠ x69.heap.size) := Lib.hid (by have := Ngp_69.out.lt; omega); have HNE70_16 : Hid (gq ≠ x69.heap.size) := Lib.hid (by have := Ngq_69.out.lt; omega); have HNE70_17 : Hid (ga ≠ x69.heap.size) := Lib.hid (by have := Nga_69.out.lt; omega); have HNE70_18 : Hid (gb ≠ x69.heap.size) := Lib.hid (by have := Ngb_69.out.lt; omega); have HNE70_19 : Hid (a8_0 ≠ x69.heap.size) := Lib.hid (by have := Na8_0_69.out.lt; omega); have HNE70_20 : Hid (a8_1 ≠ x69.heap.size) := Lib.hid (by have := Na8_1_69.out.lt; omega); have HGE70 : Hid (w.heap.size ≤ x69.heap.size) := Lib.hid HF_69.out.size; clear hr70 hg70 hz70 HA70 HZA70 HGA70 Ngp_69 Ngq_69 Nga_69 Ngb_69 Na8_0_69 Na8_1_69 HF_69)) | ((with_reducible show wpList _ _ _ (⟨_, .load 23 (.tmp 6), _, _, _, _⟩ :: _) _ _); go_must (refine wpList_exec rfl (vN a) (exec_loadF (.tmp 6) rfl (ga) 0 0 rfl [a] a rfl Nga_70.out rfl) ?_)) | ((with_reducible show wpList _ _ _ (⟨_, .load 23 (.tmp 7), _, _, _, _⟩ :: _) _ _); go_must (refine wpList_exec rfl (vN b) (exec_loadF (.tmp 7) rfl (gb) 0 0 rfl [b] b rfl Ngb_70.out rfl) ?_)) | fail)
      generalize x69.heap.size = gg at *
      refine (C17.out _).mono ?_
      rintro e71 x71 ⟨rfl, hb71⟩
      have Ngp_71 := Lib.hid (Ngp_70.out.keep hb71)
      have Ngq_71 := Lib.hid (Ngq_70.out.keep hb71)
      have Nga_71 := Lib.hid (Nga_70.out.keep hb71)
      have Ngb_71 := Lib.hid (Ngb_70.out.keep hb71)
      have Na8_0_71 := Lib.hid (Na8_0_70.out.keep hb71)
      have Na8_1_71 := Lib.hid (Na8_1_70.out.keep hb71)
      have Ngg_71 := Lib.hid (Ngg_70.out.keep hb71)
      have HF_71 : Hid (Below w.heap.size w x71) := Lib.hid (HF_70.out.trans (hb71.mono HF_70.out.size))
      clear hb71 Ngp_70 Ngq_70 Nga_70 Ngb_70 Na8_0_70 Na8_1_70 Ngg_70 HF_70
      go_wp2_with (first | ((with_reducible show wpList _ _ _ (⟨some 12, .alloc 23, _, _, _, _⟩ :: _) _ _); go_must (refine wpList_alloc_row rfl 23 rfl (.agg (zbs 32)) zero23 ?_; intro u72 ha72 hza72 hga72; have HA72 := Lib.hid ha72; have HZA72 := Lib.hid hza72; have HGA72 := Lib.hid hga72; clear ha72 hza72 hga72)) | ((with_reducible show wpList _ _ _ (⟨none, .store 23 (.tmp 12) (.tmp 77), _, _, _, _⟩ :: _) _ _); go_must (refine wpList_storeF rfl (.tmp 12) (.tmp 77) rfl (x71.heap.size) 0 0 rfl [0] n rfl rfl (zrow (k := 1) HA72.out) (show 0 < 1 by omega) ?_; intro y72 hr72 hg72 hz72; have Ngp_72 := Lib.hid ((Ngp_71.out.grown HGA72.out (by simp)).grown hg72 (by have := Ngp_71.out.lt; simp; omega)); have Ngq_72 := Lib.hid ((Ngq_71.out.grown HGA72.out (by simp)).grown hg72 (by have := Ngq_71.out.lt; simp; omega)); have Nga_72 := Lib.hid ((Nga_71.out.grown HGA72.out (by simp)).grown hg72 (by have := Nga_71.out.lt; simp; omega)); have Ngb_72 := Lib.hid ((Ngb_71.out.grown HGA72.out (by simp)).grown hg72 (by have := Ngb_71.out.lt; simp; omega)); have Na8_0_72 := Lib.hid ((Na8_0_71.out.grown HGA72.out (by simp)).grown hg72 (by have := Na8_0_71.out.lt; simp; omega)); have Na8_1_72 := Lib.hid ((Na8_1_71.out.grown HGA72.out (by simp)).grown hg72 (by have := Na8_1_71.out.lt; simp; omega)); have Ngg_72 := Lib.hid ((Ngg_71.out.grown HGA72.out (by simp)).grown hg72 (by have := Ngg_71.out.lt; simp; omega)); have Ngn_72 : Hid (RAt y72 x71.heap.size [n]) := Lib.hid hr72; have HF_72 : Hid (Below w.heap.size w y72) := Lib.hid ((HF_71.out.grown HGA72.out HF_71.out.size (by simp)).grown hg72 (by have := HF_71.out.size; have := HZA72.out; omega) (fun r hr => by injection hr with hr; have := HF_71.out.size; omega)); have HNE72_21 : Hid (w.heap.size ≠ x71.heap.size) := Lib.hid (by have := Ngp_71.out.lt; omega); have HNE72_22 : Hid (gq ≠ x71.heap.size) := Lib.hid (by have := Ngq_71.out.lt; omega); have HNE72_23 : Hid (ga ≠ x71.heap.size) := Lib.hid (by have := Nga_71.out.lt; omega); have HNE72_24 : Hid (gb ≠ x71.heap.size) := Lib.hid (by have := Ngb_71.out.lt; omega); have HNE72_25 : Hid (a8_0 ≠ x71.heap.size) := Lib.hid (by have := Na8_0_71.out.lt; omega); have HNE72_26 : Hid (a8_1 ≠ x71.heap.size) := Lib.hid (by have := Na8_1_71.out.lt; omega); have HNE72_27 : Hid (gg ≠ x71.heap.size) := Lib.hid (by have := Ngg_71.out.lt; omega); have HGE72 : Hid (w.heap.size ≤ x71.heap.size) := Lib.hid HF_71.out.size; clear hr72 hg72 hz72 HA72 HZA72 HGA72 Ngp_71 Ngq_71 Nga_71 Ngb_71 Na8_0_71 Na8_1_71 Ngg_71 HF_71)) | fail)
      generalize x71.heap.size = gn at *
      refine region_wq2 (by kernel_rfl) (by kernel_rfl) (by kernel_rfl) ?_
      refine wq_loadF rfl (.tmp 12) rfl (gn) 0 0 rfl [n] n rfl Ngn_72.out rfl ?_
      simp only [Act.put, List.setIfInBounds_toArray, List.set_cons_zero, List.set_cons_succ]
      refine wq_loadP rfl (.tmp 11) rfl (gg) gx gy rfl Ngg_72.out ?_
      simp only [Act.put, List.setIfInBounds_toArray, List.set_cons_zero, List.set_cons_succ]
      refine wq_call rfl 41 [.tmp 78, .tmp 79] #[23, 35] rfl [vN n, vR [gx, gy]] rfl (CG41 _) (vR [rx, ry]) C18.out ?_
      simp only [Act.put, List.setIfInBounds_toArray, List.set_cons_zero, List.set_cons_succ]
      refine wq_loadF rfl (.tmp 6) rfl (ga) 0 0 rfl [a] a rfl Nga_72.out rfl ?_
      simp only [Act.put, List.setIfInBounds_toArray, List.set_cons_zero, List.set_cons_succ]
      refine wq_loadP rfl (.tmp 11) rfl (gg) gx gy rfl Ngg_72.out ?_
      simp only [Act.put, List.setIfInBounds_toArray, List.set_cons_zero, List.set_cons_succ]
      refine wq_call rfl 41 [.tmp 81, .tmp 82] #[23, 35] rfl [vN a, vR [gx, gy]] rfl (CG41 _) (vR [hx, hy]) C19.out ?_
      simp only [Act.put, List.setIfInBounds_toArray, List.set_cons_zero, List.set_cons_succ]
      refine wq_loadF rfl (.tmp 7) rfl (gb) 0 0 rfl [b] b rfl Ngb_72.out rfl ?_
      simp only [Act.put, List.setIfInBounds_toArray, List.set_cons_zero, List.set_cons_succ]
      refine wq_loadP rfl (.tmp 11) rfl (gg) gx gy rfl Ngg_72.out ?_
      simp only [Act.put, List.setIfInBounds_toArray, List.set_cons_zero, List.set_cons_succ]
      refine wq_call rfl 41 [.tmp 84, .tmp 85] #[23, 35] rfl [vN b, vR [gx, gy]] rfl (CG41 _) (vR [ix, iy]) C20.out ?_
      simp only [Act.put, List.setIfInBounds_toArray, List.set_cons_zero, List.set_cons_succ]
      refine wq_call rfl 44 [.tmp 83, .tmp 86] #[35, 35] rfl [vR [hx, hy], vR [ix, iy]] rfl (CG44 _) (vR [rx, ry]) C21.out ?_
      simp only [Act.put, List.setIfInBounds_toArray, List.set_cons_zero, List.set_cons_succ]
      refine wq_eqP rfl (.tmp 80) (.tmp 87) rfl rx ry rx ry rfl rfl true (eqP_same _ _) ?_
      simp only [Act.put, List.setIfInBounds_toArray, List.set_cons_zero, List.set_cons_succ]
      refine wq_move rfl (.tmp 88) rfl (.bool true) rfl ?_
      simp only [Act.put, List.setIfInBounds_toArray, List.set_cons_zero, List.set_cons_succ]
      refine wq_loadF rfl (.tmp 6) rfl (ga) 0 0 rfl [a] a rfl Nga_72.out rfl ?_
      simp only [Act.put, List.setIfInBounds_toArray, List.set_cons_zero, List.set_cons_succ]
      refine wq_loadF rfl (.tmp 7) rfl (gb) 0 0 rfl [b] b rfl Ngb_72.out rfl ?_
      simp only [Act.put, List.setIfInBounds_toArray, List.set_cons_zero, List.set_cons_succ]
      refine wq_call rfl 59 [.tmp 90, .tmp 91] #[23, 23] rfl [vN a, vN b] rfl (CG59 _) (vN m) C22.out ?_
      simp only [Act.put, List.setIfInBounds_toArray, List.set_cons_zero, List.set_cons_succ]
      as_aux_lemma =>
        refine wq_loadP rfl (.tmp 11) rfl (gg) gx gy rfl Ngg_72.out ?_
        simp only [Act.put, List.setIfInBounds_toArray, List.set_cons_zero, List.set_cons_succ]
        refine wq_call rfl 41 [.tmp 92, .tmp 93] #[23, 35] rfl [vN m, vR [gx, gy]] rfl (CG41 _) (vR [kx, ky]) C23.out ?_
        simp only [Act.put, List.setIfInBounds_toArray, List.set_cons_zero, List.set_cons_succ]
        refine wq_loadF rfl (.tmp 6) rfl (ga) 0 0 rfl [a] a rfl Nga_72.out rfl ?_
        simp only [Act.put, List.setIfInBounds_toArray, List.set_cons_zero, List.set_cons_succ]
        refine wq_loadF rfl (.tmp 7) rfl (gb) 0 0 rfl [b] b rfl Ngb_72.out rfl ?_
        simp only [Act.put, List.setIfInBounds_toArray, List.set_cons_zero, List.set_cons_succ]
        refine wq_loadP rfl (.tmp 11) rfl (gg) gx gy rfl Ngg_72.out ?_
        simp only [Act.put, List.setIfInBounds_toArray, List.set_cons_zero, List.set_cons_succ]
        refine wq_call rfl 41 [.tmp 96, .tmp 97] #[23, 35] rfl [vN b, vR [gx, gy]] rfl (CG41 _) (vR [ix, iy]) C20.out ?_
        simp only [Act.put, List.setIfInBounds_toArray, List.set_cons_zero, List.set_cons_succ]
        refine wq_call rfl 41 [.tmp 95, .tmp 98] #[23, 35] rfl [vN a, vR [ix, iy]] rfl (CG41 _) (vR [kx, ky]) C24.out ?_
        simp only [Act.put, List.setIfInBounds_toArray, List.set_cons_zero, List.set_cons_succ]
        refine wq_eqP rfl (.tmp 94) (.tmp 99) rfl kx ky kx ky rfl rfl true (eqP_same _ _) ?_
        simp only [Act.put, List.setIfInBounds_toArray, List.set_cons_zero, List.set_cons_succ]
        refine wq_pick rfl (.tmp 89) (.tmp 100) (.const (.bool false)) rfl true rfl (.bool true) rfl ?_
        simp only [Act.put, List.setIfInBounds_toArray, List.set_cons_zero, List.set_cons_succ]
        refine wq_assign rfl (.tmp 101) rfl (.bool true) rfl ?_
        simp only [Act.put, List.setIfInBounds_toArray, List.set_cons_zero, List.set_cons_succ]
        refine wq_nil ?_
        intro W73 hb73
        have HBW : Hid (Below w.heap.size w W73) := Lib.hid (HF_72.out.trans (hb73.mono HF_72.out.size))
        skip
        go_wp2
        go_ret
        exact ⟨rfl, HBW.out⟩

set_option maxHeartbeats 8000000 in
set_option maxRecDepth 100000 in
theorem muls_bad1 (a b px py qx qy : Nat) (w : World) (C0 : Hid (∀ w, Calls Try.prog 38 #[] w (Gives (.bool true) w))) (D0 : Hid (∀ w, Calls Try.prog 40 #[vR [px, py]] w (Gives (.int .i64 2) w))) :
    Calls Try.prog 7 #[vR [px, py], vR [qx, qy], vN a, vN b] w (Gives (.bool true) w) := by
  have HF_0 : Hid (Below w.heap.size w w) := Lib.hid (Below.refl _ _)
  go_enter Try.func7, Try.ntmps7
  go_wp2_with (first | ((with_reducible show wpList _ _ _ (⟨some 4, .box 35 (.tmp 0), _, _, _, _⟩ :: _) _ _); go_must (refine wpList_box_row rfl 35 (.tmp 0) rfl (bcs (encs [px, py])).toArray rfl ?_; intro u74 ha74 hza74 hga74; have Ngp_74 : Hid (RAt u74 w.heap.size [px, py]) := Lib.hid (⟨_, ha74⟩); have HF_74 : Hid (Below w.heap.size w u74) := Lib.hid (HF_0.out.grown hga74 HF_0.out.size (by simp)); have HGE74 : Hid (w.heap.size ≤ w.heap.size) := Lib.hid HF_0.out.size; clear ha74 hza74 hga74 HF_0)) | ((with_reducible show wpList _ _ _ (⟨some 5, .box 35 (.tmp 1), _, _, _, _⟩ :: _) _ _); go_must (refine wpList_box_row rfl 35 (.tmp 1) rfl (bcs (encs [qx, qy])).toArray rfl ?_; intro u75 ha75 hza75 hga75; have Ngp_75 := Lib.hid (Ngp_74.out.grown hga75 (by simp)); have Ngq_75 : Hid (RAt u75 u74.heap.size [qx, qy]) := Lib.hid (⟨_, ha75⟩); have HF_75 : Hid (Below w.heap.size w u75) := Lib.hid (HF_74.out.grown hga75 HF_74.out.size (by simp)); have HNE75_0 : Hid (w.heap.size ≠ u74.heap.size) := Lib.hid (by have := Ngp_74.out.lt; omega); have HGE75 : Hid (w.heap.size ≤ u74.heap.size) := Lib.hid HF_74.out.size; clear ha75 hza75 hga75 Ngp_74 HF_74)) | ((with_reducible show wpList _ _ _ (⟨some 6, .box 23 (.tmp 2), _, _, _, _⟩ :: _) _ _); go_must (refine wpList_box_row rfl 23 (.tmp 2) rfl (bcs (enc a)).toArray rfl ?_; intro u76 ha76 hza76 hga76; have Ngp_76 := Lib.hid (Ngp_75.out.grown hga76 (by simp)); have Ngq_76 := Lib.hid (Ngq_75.out.grown hga76 (by simp)); have Nga_76 : Hid (RAt u76 u75.heap.size [a]) := Lib.hid (NAt.row ⟨_, ha76⟩); have HF_76 : Hid (Below w.heap.size w u76) := Lib.hid (HF_75.out.grown hga76 HF_75.out.size (by simp)); have HNE76_1 : Hid (w.heap.size ≠ u75.heap.size) := Lib.hid (by have := Ngp_75.out.lt; omega); have HNE76_2 : Hid (u74.heap.size ≠ u75.heap.size) := Lib.hid (by have := Ngq_75.out.lt; omega); have HGE76 : Hid (w.heap.size ≤ u75.heap.size) := Lib.hid HF_75.out.size; clear ha76 hza76 hga76 Ngp_75 Ngq_75 HF_75)) | ((with_reducible show wpList _ _ _ (⟨some 7, .box 23 (.tmp 3), _, _, _, _⟩ :: _) _ _); go_must (refine wpList_box_row rfl 23 (.tmp 3) rfl (bcs (enc b)).toArray rfl ?_; intro u77 ha77 hza77 hga77; have Ngp_77 := Lib.hid (Ngp_76.out.grown hga77 (by simp)); have Ngq_77 := Lib.hid (Ngq_76.out.grown hga77 (by simp)); have Nga_77 := Lib.hid (Nga_76.out.grown hga77 (by simp)); have Ngb_77 : Hid (RAt u77 u76.heap.size [b]) := Lib.hid (NAt.row ⟨_, ha77⟩); have HF_77 : Hid (Below w.heap.size w u77) := Lib.hid (HF_76.out.grown hga77 HF_76.out.size (by simp)); have HNE77_3 : Hid (w.heap.size ≠ u76.heap.size) := Lib.hid (by have := Ngp_76.out.lt; omega); have HNE77_4 : Hid (u74.heap.size ≠ u76.heap.size) := Lib.hid (by have := Ngq_76.out.lt; omega); have HNE77_5 : Hid (u75.heap.size ≠ u76.heap.size) := Lib.hid (by have := Nga_76.out.lt; omega); have HGE77 : Hid (w.heap.size ≤ u76.heap.size) := Lib.hid HF_76.out.size; clear ha77 hza77 hga77 Ngp_76 Ngq_76 Nga_76 HF_76)) | fail)
  generalize u74.heap.size = gq at *
  generalize u75.heap.size = ga at *
  generalize u76.heap.size = gb at *
  refine (C0.out _).mono ?_
  rintro e78 x78 ⟨rfl, hb78⟩
  have Ngp_78 := Lib.hid (Ngp_77.out.keep hb78)
  have Ngq_78 := Lib.hid (Ngq_77.out.keep hb78)
  have Nga_78 := Lib.hid (Nga_77.out.keep hb78)
  have Ngb_78 := Lib.hid (Ngb_77.out.keep hb78)
  have HF_78 : Hid (Below w.heap.size w x78) := Lib.hid (HF_77.out.trans (hb78.mono HF_77.out.size))
  clear hb78 Ngp_77 Ngq_77 Nga_77 Ngb_77 HF_77
  go_wp2_with (first | ((with_reducible show wpList _ _ _ (⟨_, .load 35 (.tmp 4), _, _, _, _⟩ :: _) _ _); go_must (refine wpList_exec rfl (vR [px, py]) (exec_loadP (.tmp 4) rfl (w.heap.size) px py rfl Ngp_78.out) ?_)) | fail)
  refine (D0.out _).mono ?_
  rintro e79 x79 ⟨rfl, hb79⟩
  have Ngp_79 := Lib.hid (Ngp_78.out.keep hb79)
  have Ngq_79 := Lib.hid (Ngq_78.out.keep hb79)
  have Nga_79 := Lib.hid (Nga_78.out.keep hb79)
  have Ngb_79 := Lib.hid (Ngb_78.out.keep hb79)
  have HF_79 : Hid (Below w.heap.size w x79) := Lib.hid (HF_78.out.trans (hb79.mono HF_78.out.size))
  clear hb79 Ngp_78 Ngq_78 Nga_78 Ngb_78 HF_78
  go_wp2
  go_ret
  exact ⟨rfl, HF_79.out⟩

set_option maxHeartbeats 8000000 in
set_option maxRecDepth 100000 in
theorem muls_bad2 (a b px py qx qy : Nat) (w : World) (C0 : Hid (∀ w, Calls Try.prog 38 #[] w (Gives (.bool true) w))) (D0 : Hid (∀ w, Calls Try.prog 40 #[vR [px, py]] w (Gives (.int .i64 0) w))) (D1 : Hid (∀ w, Calls Try.prog 40 #[vR [qx, qy]] w (Gives (.int .i64 2) w))) :
    Calls Try.prog 7 #[vR [px, py], vR [qx, qy], vN a, vN b] w (Gives (.bool true) w) := by
  have HF_0 : Hid (Below w.heap.size w w) := Lib.hid (Below.refl _ _)
  go_enter Try.func7, Try.ntmps7
  go_wp2_with (first | ((with_reducible show wpList _ _ _ (⟨some 4, .box 35 (.tmp 0), _, _, _, _⟩ :: _) _ _); go_must (refine wpList_box_row rfl 35 (.tmp 0) rfl (bcs (encs [px, py])).toArray rfl ?_; intro u80 ha80 hza80 hga80; have Ngp_80 : Hid (RAt u80 w.heap.size [px, py]) := Lib.hid (⟨_, ha80⟩); have HF_80 : Hid (Below w.heap.size w u80) := Lib.hid (HF_0.out.grown hga80 HF_0.out.size (by simp)); have HGE80 : Hid (w.heap.size ≤ w.heap.size) := Lib.hid HF_0.out.size; clear ha80 hza80 hga80 HF_0)) | ((with_reducible show wpList _ _ _ (⟨some 5, .box 35 (.tmp 1), _, _, _, _⟩ :: _) _ _); go_must (refine wpList_box_row rfl 35 (.tmp 1) rfl (bcs (encs [qx, qy])).toArray rfl ?_; intro u81 ha81 hza81 hga81; have Ngp_81 := Lib.hid (Ngp_80.out.grown hga81 (by simp)); have Ngq_81 : Hid (RAt u81 u80.heap.size [qx, qy]) := Lib.hid (⟨_, ha81⟩); have HF_81 : Hid (Below w.heap.size w u81) := Lib.hid (HF_80.out.grown hga81 HF_80.out.size (by simp)); have HNE81_0 : Hid (w.heap.size ≠ u80.heap.size) := Lib.hid (by have := Ngp_80.out.lt; omega); have HGE81 : Hid (w.heap.size ≤ u80.heap.size) := Lib.hid HF_80.out.size; clear ha81 hza81 hga81 Ngp_80 HF_80)) | ((with_reducible show wpList _ _ _ (⟨some 6, .box 23 (.tmp 2), _, _, _, _⟩ :: _) _ _); go_must (refine wpList_box_row rfl 23 (.tmp 2) rfl (bcs (enc a)).toArray rfl ?_; intro u82 ha82 hza82 hga82; have Ngp_82 := Lib.hid (Ngp_81.out.grown hga82 (by simp)); have Ngq_82 := Lib.hid (Ngq_81.out.grown hga82 (by simp)); have Nga_82 : Hid (RAt u82 u81.heap.size [a]) := Lib.hid (NAt.row ⟨_, ha82⟩); have HF_82 : Hid (Below w.heap.size w u82) := Lib.hid (HF_81.out.grown hga82 HF_81.out.size (by simp)); have HNE82_1 : Hid (w.heap.size ≠ u81.heap.size) := Lib.hid (by have := Ngp_81.out.lt; omega); have HNE82_2 : Hid (u80.heap.size ≠ u81.heap.size) := Lib.hid (by have := Ngq_81.out.lt; omega); have HGE82 : Hid (w.heap.size ≤ u81.heap.size) := Lib.hid HF_81.out.size; clear ha82 hza82 hga82 Ngp_81 Ngq_81 HF_81)) | ((with_reducible show wpList _ _ _ (⟨some 7, .box 23 (.tmp 3), _, _, _, _⟩ :: _) _ _); go_must (refine wpList_box_row rfl 23 (.tmp 3) rfl (bcs (enc b)).toArray rfl ?_; intro u83 ha83 hza83 hga83; have Ngp_83 := Lib.hid (Ngp_82.out.grown hga83 (by simp)); have Ngq_83 := Lib.hid (Ngq_82.out.grown hga83 (by simp)); have Nga_83 := Lib.hid (Nga_82.out.grown hga83 (by simp)); have Ngb_83 : Hid (RAt u83 u82.heap.size [b]) := Lib.hid (NAt.row ⟨_, ha83⟩); have HF_83 : Hid (Below w.heap.size w u83) := Lib.hid (HF_82.out.grown hga83 HF_82.out.size (by simp)); have HNE83_3 : Hid (w.heap.size ≠ u82.heap.size) := Lib.hid (by have := Ngp_82.out.lt; omega); have HNE83_4 : Hid (u80.heap.size ≠ u82.heap.size) := Lib.hid (by have := Ngq_82.out.lt; omega); have HNE83_5 : Hid (u81.heap.size ≠ u82.heap.size) := Lib.hid (by have := Nga_82.out.lt; omega); have HGE83 : Hid (w.heap.size ≤ u82.heap.size) := Lib.hid HF_82.out.size; clear ha83 hza83 hga83 Ngp_82 Ngq_82 Nga_82 HF_82)) | fail)
  generalize u80.heap.size = gq at *
  generalize u81.heap.size = ga at *
  generalize u82.heap.size = gb at *
  refine (C0.out _).mono ?_
  rintro e84 x84 ⟨rfl, hb84⟩
  have Ngp_84 := Lib.hid (Ngp_83.out.keep hb84)
  have Ngq_84 := Lib.hid (Ngq_83.out.keep hb84)
  have Nga_84 := Lib.hid (Nga_83.out.keep hb84)
  have Ngb_84 := Lib.hid (Ngb_83.out.keep hb84)
  have HF_84 : Hid (Below w.heap.size w x84) := Lib.hid (HF_83.out.trans (hb84.mono HF_83.out.size))
  clear hb84 Ngp_83 Ngq_83 Nga_83 Ngb_83 HF_83
  go_wp2_with (first | ((with_reducible show wpList _ _ _ (⟨_, .load 35 (.tmp 4), _, _, _, _⟩ :: _) _ _); go_must (refine wpList_exec rfl (vR [px, py]) (exec_loadP (.tmp 4) rfl (w.heap.size) px py rfl Ngp_84.out) ?_)) | fail)
  refine (D0.out _).mono ?_
  rintro e85 x85 ⟨rfl, hb85⟩
  have Ngp_85 := Lib.hid (Ngp_84.out.keep hb85)
  have Ngq_85 := Lib.hid (Ngq_84.out.keep hb85)
  have Nga_85 := Lib.hid (Nga_84.out.keep hb85)
  have Ngb_85 := Lib.hid (Ngb_84.out.keep hb85)
  have HF_85 : Hid (Below w.heap.size w x85) := Lib.hid (HF_84.out.trans (hb85.mono HF_84.out.size))
  clear hb85 Ngp_84 Ngq_84 Nga_84 Ngb_84 HF_84
  go_wp2_with (first | ((with_reducible show wpList _ _ _ (⟨_, .load 35 (.tmp 5), _, _, _, _⟩ :: _) _ _); go_must (refine wpList_exec rfl (vR [qx, qy]) (exec_loadP (.tmp 5) rfl (gq) qx qy rfl Ngq_85.out) ?_)) | fail)
  refine (D1.out _).mono ?_
  rintro e86 x86 ⟨rfl, hb86⟩
  have Ngp_86 := Lib.hid (Ngp_85.out.keep hb86)
  have Ngq_86 := Lib.hid (Ngq_85.out.keep hb86)
  have Nga_86 := Lib.hid (Nga_85.out.keep hb86)
  have Ngb_86 := Lib.hid (Ngb_85.out.keep hb86)
  have HF_86 : Hid (Below w.heap.size w x86) := Lib.hid (HF_85.out.trans (hb86.mono HF_85.out.size))
  clear hb86 Ngp_85 Ngq_85 Nga_85 Ngb_85 HF_85
  go_wp2
  go_ret
  exact ⟨rfl, HF_86.out⟩

theorem walkP (p q : EC.Pt) (a b : Nat) (ha : a < TT) (hb : b < TT) (w : World) : Calls Try.prog 7 #[vPt p, vPt q, vN a, vN b] w (Gives (.bool true) w) := by
  have hL : lN < TT := by unfold lN TT; omega
  have h1 := one_lt_L
  have hn : (a + b) % lN < TT := Nat.lt_trans (Nat.mod_lt _ (by omega)) hL
  have hm : a * b % lN < TT := Nat.lt_trans (Nat.mod_lt _ (by omega)) hL
  exact muls_core a b _ _ _ _ _ _ _ _ _ _ _ _ _ _ _ _ _ _ _ _ _ _ _ _ _ _ _ _ _ _ w (Lib.hid (clives_any)) (Lib.hid (pCheck p)) (Lib.hid (pCheck q)) (Lib.hid (pMul a ha p)) (Lib.hid (pMul b hb q)) (Lib.hid (pMul2 a b ha hb p q)) (Lib.hid (pAdd _ _)) (Lib.hid (pAdd p q)) (Lib.hid (pMul a ha _)) (Lib.hid (pMul a ha q)) (Lib.hid (fun w => gives_V (congrArg vPt (EC.sm_sum p q a).symm) (pAdd _ _ w))) (Lib.hid (fun w => gives_V vZ (pMul 0 (by unfold TT; omega) p w))) (Lib.hid (Zero_any)) (Lib.hid (fun w => gives_V (congrArg vPt (EC.sm_one p)) (pMul 1 (by unfold TT; omega) p w))) (Lib.hid (pMul 2 (by unfold TT; omega) p)) (Lib.hid (fun w => gives_V (congrArg vPt (by rw [show (2 : Nat) = 2 * 1 from rfl, EC.sm_two, EC.sm_one])) (pAdd p p w))) (Lib.hid (pBase)) (Lib.hid (sAdd_any a b ha hb)) (Lib.hid (pMul _ hn bP)) (Lib.hid (pMul a ha bP)) (Lib.hid (pMul b hb bP)) (Lib.hid (fun w => gives_V (congrArg vPt (by rw [← sm_rest, EC.sm_add])) (pAdd _ _ w))) (Lib.hid (sMul_any a b ha hb)) (Lib.hid (pMul _ hm bP)) (Lib.hid (fun w => gives_V (congrArg vPt (by rw [← sm_rest, Nat.mul_comm a b, EC.sm_mul])) (pMul a ha _ w)))
theorem walk (X0 Y0 X1 Y1 : Nat) (z2 z3 : List UInt8) (w : World) (a0 : X0 < TT) (b0 : Y0 < TT) (a1 : X1 < TT) (b1 : Y1 < TT) (w2 : z2.length = 32) (w3 : z3.length = 32) :
    Calls Try.prog 7 #[vR [X0, Y0], vR [X1, Y1], .agg (bcs z2).toArray, .agg (bcs z3).toArray] w fun e w' => e = .returned (.bool true) ∧ Below w.heap.size w w' := by
  obtain ⟨a, ha, e2⟩ := bytes_num z2 w2
  obtain ⟨b, hb, e3⟩ := bytes_num z3 w3
  rw [e2, e3]
  have h0 := Check_any X0 Y0 a0 b0
  have h1 := Check_any X1 Y1 a1 b1
  rcases chk_two X0 Y0 with c0 | c0
  · rcases chk_two X1 Y1 with c1 | c1
    · obtain ⟨p, e0, _⟩ := chk_zero _ _ c0
      obtain ⟨q, e1, _⟩ := chk_zero _ _ c1
      rw [e0, e1]
      exact walkP p q a b ha hb w
    · rw [c0] at h0
      rw [c1] at h1
      exact muls_bad2 _ _ _ _ _ _ w (Lib.hid clives_any) (Lib.hid h0) (Lib.hid h1)
  · rw [c0] at h0
    exact muls_bad1 _ _ _ _ _ _ w (Lib.hid clives_any) (Lib.hid h0)

set_option maxRecDepth 100000 in
theorem lifted (os : Os) (started : os.Started) (H : Type) (enc : TypeId × Value → H) :
    ReturnsInHanded {} Try.checked os 7 .any (Rows.curveMulsSpec.pre6 enc Try.prog Try.f7 Rows.curveMulsRow.domain false) (Rows.curveMulsSpec.post enc Try.prog Try.f7 false true false false) := by
  refine returnsInHanded_of_change (C := Try.checked) own started (by kernel_rfl) Try.func7
    (ChangeSpec.witness6 (enc := enc) (C := Try.checked) false ⟨#[], #[.agg (Array.replicate 64 (.int .u8 0)), .agg (Array.replicate 64 (.int .u8 0)), .agg (Array.replicate 32 (.int .u8 0)), .agg (Array.replicate 32 (.int .u8 0))], []⟩ 8 (by kernel_rfl) (by kernel_rfl) (by kernel_rfl) (by kernel_rfl)) ?_
  intro W base args ds gs before hval0 hW hcnd _
  have hval : ∀ (j : Nat) t v, Try.f7.params[j]? = some t → args[j]? = some v → Value.okWide Try.prog W .any base t v := hval0
  have hW' := hW
  obtain ⟨p, q, hA0, hV, rfl, hfz, hnd⟩ := hW
  have hA : DataW.TrodAll enc Try.prog W 0 (fun _ => true) true Try.f7.params.toList args.toList ds p := hA0
  rw [Try.params7] at hA hval
  obtain ⟨v0, vs0, d0, ds0, p0, q0, hargs, rfl, rfl, h0, r0⟩ := trodAll_cons hA
  obtain ⟨v1, vs1, d1, ds1, p1, q1, rfl, rfl, rfl, h1, r1⟩ := trodAll_cons r0
  obtain ⟨v2, vs2, d2, ds2, p2, q2, rfl, rfl, rfl, h2, r2⟩ := trodAll_cons r1
  obtain ⟨v3, vs3, d3, ds3, p3, q3, rfl, rfl, rfl, h3, r3⟩ := trodAll_cons r2
  obtain ⟨rfl, rfl, rfl⟩ := trodAll_nil r3
  obtain rfl : args = #[v0, v1, v2, v3] := by cases args; simp_all
  obtain ⟨rfl, rfl⟩ := trodVars_none hV
  have k0 := h0
  have lt0 : ∀ x ∈ p0, x.block < W.heap.size := by obtain ⟨m, hm⟩ := k0; exact DataW.trod_lt m _ _ _ hm
  obtain ⟨X0, Y0, wX0, wY0, rfl⟩ := open_pt (hval 0 35 v0 rfl rfl) h0
  have k1 := h1
  have lt1 : ∀ x ∈ p1, x.block < W.heap.size := by obtain ⟨m, hm⟩ := k1; exact DataW.trod_lt m _ _ _ hm
  obtain ⟨X1, Y1, wX1, wY1, rfl⟩ := open_pt (hval 1 35 v1 rfl rfl) h1
  have k2 := h2
  have lt2 : ∀ x ∈ p2, x.block < W.heap.size := by obtain ⟨m, hm⟩ := k2; exact DataW.trod_lt m _ _ _ hm
  obtain ⟨z2, w2, rfl⟩ := open_arr Try.underlying23 Try.underlying5 (by kernel_rfl) (by kernel_rfl) (hval 2 23 v2 rfl rfl) h2
  have k3 := h3
  have lt3 : ∀ x ∈ p3, x.block < W.heap.size := by obtain ⟨m, hm⟩ := k3; exact DataW.trod_lt m _ _ _ hm
  obtain ⟨z3, w3, rfl⟩ := open_arr Try.underlying23 Try.underlying5 (by kernel_rfl) (by kernel_rfl) (hval 3 23 v3 rfl rfl) h3
  clear hA0 hval0
  refine (walk X0 Y0 X1 Y1 z2 z3 W wX0 wY0 wX1 wY1 w2 w3).mono fun e W' ⟨he, bel⟩ => ?_
  subst he
  exact ⟨_, rfl, _, _, _, [], _, [], hW', trodAll_mk1 (shut_bool Try.underlying4 _), (trodAll_cons_mk (Below.trod laidOut (by kernel_rfl) (of_decide_eq_true (by kernel_rfl)) k0 bel lt0) (trodAll_cons_mk (Below.trod laidOut (by kernel_rfl) (of_decide_eq_true (by kernel_rfl)) k1 bel lt1) (trodAll_cons_mk (Below.trod laidOut (by kernel_rfl) (of_decide_eq_true (by kernel_rfl)) k2 bel lt2) (trodAll_cons_mk (Below.trod laidOut (by kernel_rfl) (of_decide_eq_true (by kernel_rfl)) k3 bel lt3) trodAll_mk0)))), rfl, bel.frame _, fun h => by cases h⟩

theorem over : Rows.curveMulsRow.holds Try.pinned (OpenSpec.ofChange Rows.curveMulsSpec) :=
  OpenClaim.holds_of_wide 7 Try.f7 rfl rfl rfl rfl rfl rfl rfl ⟨rfl, rfl, rfl, rfl, rfl⟩ rfl rfl rfl rfl rfl (by kernel_rfl) Try.func7 (by kernel_rfl)
    (of_decide_eq_true (by kernel_rfl)) (by unfold Func.isWrapper; first | (rw [if_pos (by decide +kernel)]; kernel_rfl) | (rw [if_neg (by decide +kernel)]; exact ⟨rfl, rfl⟩))
    (fun os started H enc _ => lifted os started H enc)

/-- The statement. -/
theorem proved : Rows.CurveMulsSaid := over
#print axioms proved
end Go.Proofs.Ytgdimnbdnepbgaa.curveMuls
