/- The curve: Check, Add, Neg. No statement is proved here. -/
import Derived.Test.YtgdimnbdnepbgaaEF
namespace Go.Proofs.Ytgdimnbdnepbgaa
open Go.RowKit
set_option linter.unusedVariables false
set_option maxRecDepth 40000
set_option linter.unusedSimpArgs false

set_option maxHeartbeats 4000000 in
theorem Check_core (x y : Nat) (cx cy oc : Bool) (rr : Int) (w : World) (HR : Hid ((if cx && (cy && oc) then (0 : Int) else 2) = rr))
    (H1 : Hid (∀ w, Calls Try.prog 15 #[vN x] w (Gives (.bool cx) w))) (H2 : Hid (∀ w, Calls Try.prog 15 #[vN y] w (Gives (.bool cy) w))) (H3 : Hid (∀ w, Calls Try.prog 79 #[vR [x, y]] w (Gives (.bool oc) w))) :
    Calls Try.prog 40 #[vR [x, y]] w (Gives (.int .i64 rr) w) := by
  have HF_0 : Hid (Below w.heap.size w w) := Lib.hid (Below.refl _ _)
  go_enter Try.func40, Try.ntmps40
  go_wp2_with (first | ((with_reducible show wpList _ _ _ (⟨some 1, .box 35 (.tmp 0), _, _, _, _⟩ :: _) _ _); go_must (refine wpList_box_row rfl 35 (.tmp 0) rfl (bcs (encs [x, y])).toArray rfl ?_; intro u1 ha1 hza1 hga1; have Ngp_1 : Hid (RAt u1 w.heap.size [x, y]) := Lib.hid (⟨_, ha1⟩); have HF_1 : Hid (Below w.heap.size w u1) := Lib.hid (HF_0.out.grown hga1 HF_0.out.size (by simp)); have HGE1 : Hid (w.heap.size ≤ w.heap.size) := Lib.hid HF_0.out.size; clear ha1 hza1 hga1 HF_0)) | ((with_reducible show wpList _ _ _ (⟨_, .load 23 (.tmp 3), _, _, _, _⟩ :: _) _ _); go_must (refine wpList_exec rfl (vN x) (exec_loadF (.tmp 3) rfl (w.heap.size) 0 0 rfl [x, y] x rfl Ngp_1.out rfl) ?_)) | fail)
  refine (H1.out _).mono ?_
  rintro e2 x2 ⟨rfl, hb2⟩
  have Ngp_2 := Lib.hid (Ngp_1.out.keep hb2)
  have HF_2 : Hid (Below w.heap.size w x2) := Lib.hid (HF_1.out.trans (hb2.mono HF_1.out.size))
  clear hb2 Ngp_1 HF_1
  cases cx
  · go_wp2_with fail
    go_ret
    obtain rfl : (2 : Int) = rr := HR.out
    exact ⟨rfl, HF_2.out⟩
  · go_wp2_with (first | ((with_reducible show wpList _ _ _ (⟨_, .load 23 (.tmp 8), _, _, _, _⟩ :: _) _ _); go_must (refine wpList_exec rfl (vN y) (exec_loadF (.tmp 8) rfl (w.heap.size) 1 32 rfl [x, y] y rfl Ngp_2.out rfl) ?_)) | fail)
    refine (H2.out _).mono ?_
    rintro e3 x3 ⟨rfl, hb3⟩
    have Ngp_3 := Lib.hid (Ngp_2.out.keep hb3)
    have HF_3 : Hid (Below w.heap.size w x3) := Lib.hid (HF_2.out.trans (hb3.mono HF_2.out.size))
    clear hb3 Ngp_2 HF_2
    cases cy
    · go_wp2_with fail
      go_ret
      obtain rfl : (2 : Int) = rr := HR.out
      exact ⟨rfl, HF_3.out⟩
    · go_wp2_with (first | ((with_reducible show wpList _ _ _ (⟨_, .load 35 (.tmp 1), _, _, _, _⟩ :: _) _ _); go_must (refine wpList_exec rfl (vR [x, y]) (exec_loadP (.tmp 1) rfl (w.heap.size) x y rfl Ngp_3.out) ?_)) | fail)
      refine (H3.out _).mono ?_
      rintro e4 x4 ⟨rfl, hb4⟩
      have Ngp_4 := Lib.hid (Ngp_3.out.keep hb4)
      have HF_4 : Hid (Below w.heap.size w x4) := Lib.hid (HF_3.out.trans (hb4.mono HF_3.out.size))
      clear hb4 Ngp_3 HF_3
      cases oc
      · go_wp2_with fail
        go_ret
        obtain rfl : (2 : Int) = rr := HR.out
        exact ⟨rfl, HF_4.out⟩
      · go_wp2_with fail
        go_ret
        obtain rfl : (0 : Int) = rr := HR.out
        exact ⟨rfl, HF_4.out⟩

set_option maxHeartbeats 4000000 in
theorem PAdd_core (x1 y1 x2 y2 t1 t2 X Y Z T PX PY : Nat) (w : World)
    (C1 : Hid (∀ w, Calls Try.prog 40 #[vR [x1, y1]] w (Gives (.int .i64 0) w))) (C2 : Hid (∀ w, Calls Try.prog 40 #[vR [x2, y2]] w (Gives (.int .i64 0) w)))
    (HR1 : Hid (∀ (w : World) (g g1 : Nat), RAt w g [0, 0, 0, 0] → RAt w g1 [x1, y1] → g ≠ g1 → Calls Try.prog 80 #[.pointer (some ⟨g, 0, none⟩), .pointer (some ⟨g1, 0, none⟩)] w (SetsR g [x1, y1, 1, t1] w)))
    (HR2 : Hid (∀ (w : World) (g g1 : Nat), RAt w g [0, 0, 0, 0] → RAt w g1 [x2, y2] → g ≠ g1 → Calls Try.prog 80 #[.pointer (some ⟨g, 0, none⟩), .pointer (some ⟨g1, 0, none⟩)] w (SetsR g [x2, y2, 1, t2] w)))
    (HA : Hid (∀ (w : World) (g g1 : Nat), RAt w g [x1, y1, 1, t1] → RAt w g1 [x2, y2, 1, t2] → Calls Try.prog 81 #[.pointer (some ⟨g, 0, none⟩), .pointer (some ⟨g, 0, none⟩), .pointer (some ⟨g1, 0, none⟩)] w (SetsR g [X, Y, Z, T] w)))
    (HP : Hid (∀ (w : World) (g : Nat), RAt w g [X, Y, Z, T] → Calls Try.prog 82 #[.pointer (some ⟨g, 0, none⟩)] w (Gives (vR [PX, PY]) w))) :
    Calls Try.prog 44 #[vR [x1, y1], vR [x2, y2]] w (Gives (vR [PX, PY]) w) := by
  have HF_0 : Hid (Below w.heap.size w w) := Lib.hid (Below.refl _ _)
  go_enter Try.func44, Try.ntmps44
  go_wp2_with (first | ((with_reducible show wpList _ _ _ (⟨some 2, .box 35 (.tmp 0), _, _, _, _⟩ :: _) _ _); go_must (refine wpList_box_row rfl 35 (.tmp 0) rfl (bcs (encs [x1, y1])).toArray rfl ?_; intro u5 ha5 hza5 hga5; have Ngp_5 : Hid (RAt u5 w.heap.size [x1, y1]) := Lib.hid (⟨_, ha5⟩); have HF_5 : Hid (Below w.heap.size w u5) := Lib.hid (HF_0.out.grown hga5 HF_0.out.size (by simp)); have HGE5 : Hid (w.heap.size ≤ w.heap.size) := Lib.hid HF_0.out.size; clear ha5 hza5 hga5 HF_0)) | ((with_reducible show wpList _ _ _ (⟨some 3, .box 35 (.tmp 1), _, _, _, _⟩ :: _) _ _); go_must (refine wpList_box_row rfl 35 (.tmp 1) rfl (bcs (encs [x2, y2])).toArray rfl ?_; intro u6 ha6 hza6 hga6; have Ngp_6 := Lib.hid (Ngp_5.out.grown hga6 (by simp)); have Ngq_6 : Hid (RAt u6 u5.heap.size [x2, y2]) := Lib.hid (⟨_, ha6⟩); have HF_6 : Hid (Below w.heap.size w u6) := Lib.hid (HF_5.out.grown hga6 HF_5.out.size (by simp)); have HNE6_0 : Hid (w.heap.size ≠ u5.heap.size) := Lib.hid (by have := Ngp_5.out.lt; omega); have HGE6 : Hid (w.heap.size ≤ u5.heap.size) := Lib.hid HF_5.out.size; clear ha6 hza6 hga6 Ngp_5 HF_5)) | ((with_reducible show wpList _ _ _ (⟨some 4, .alloc 35, _, _, _, _⟩ :: _) _ _); go_must (refine wpList_alloc_row rfl 35 rfl (.agg (zbs 64)) zero35 ?_; intro u7 ha7 hza7 hga7; have Ngp_7 := Lib.hid (Ngp_6.out.grown hga7 (by simp)); have Ngq_7 := Lib.hid (Ngq_6.out.grown hga7 (by simp)); have Ngr_7 : Hid (RAt u7 u6.heap.size [0, 0]) := Lib.hid (zrow (k := 2) ha7); have HF_7 : Hid (Below w.heap.size w u7) := Lib.hid (HF_6.out.grown hga7 HF_6.out.size (by simp)); have HNE7_1 : Hid (w.heap.size ≠ u6.heap.size) := Lib.hid (by have := Ngp_6.out.lt; omega); have HNE7_2 : Hid (u5.heap.size ≠ u6.heap.size) := Lib.hid (by have := Ngq_6.out.lt; omega); have HGE7 : Hid (w.heap.size ≤ u6.heap.size) := Lib.hid HF_6.out.size; clear ha7 hza7 hga7 Ngp_6 Ngq_6 HF_6)) | ((with_reducible show wpList _ _ _ (⟨_, .load 35 (.tmp 2), _, _, _, _⟩ :: _) _ _); go_must (refine wpList_exec rfl (vR [x1, y1]) (exec_loadP (.tmp 2) rfl (w.heap.size) x1 y1 rfl Ngp_7.out) ?_)) | fail)
  generalize u5.heap.size = gq at *
  generalize u6.heap.size = gr at *
  refine (C1.out _).mono ?_
  rintro e8 x8 ⟨rfl, hb8⟩
  have Ngp_8 := Lib.hid (Ngp_7.out.keep hb8)
  have Ngq_8 := Lib.hid (Ngq_7.out.keep hb8)
  have Ngr_8 := Lib.hid (Ngr_7.out.keep hb8)
  have HF_8 : Hid (Below w.heap.size w x8) := Lib.hid (HF_7.out.trans (hb8.mono HF_7.out.size))
  clear hb8 Ngp_7 Ngq_7 Ngr_7 HF_7
  go_wp2_with (first | ((with_reducible show wpList _ _ _ (⟨_, .load 35 (.tmp 3), _, _, _, _⟩ :: _) _ _); go_must (refine wpList_exec rfl (vR [x2, y2]) (exec_loadP (.tmp 3) rfl (gq) x2 y2 rfl Ngq_8.out) ?_)) | fail)
  refine (C2.out _).mono ?_
  rintro e9 x9 ⟨rfl, hb9⟩
  have Ngp_9 := Lib.hid (Ngp_8.out.keep hb9)
  have Ngq_9 := Lib.hid (Ngq_8.out.keep hb9)
  have Ngr_9 := Lib.hid (Ngr_8.out.keep hb9)
  have HF_9 : Hid (Below w.heap.size w x9) := Lib.hid (HF_8.out.trans (hb9.mono HF_8.out.size))
  clear hb9 Ngp_8 Ngq_8 Ngr_8 HF_8
  go_wp2_with (first | ((with_reducible show wpList _ _ _ (⟨some 5, .alloc 76, _, _, _, _⟩ :: _) _ _); go_must (refine wpList_alloc_row rfl 76 rfl (.agg (zbs 128)) zero76 ?_; intro u10 ha10 hza10 hga10; have Ngp_10 := Lib.hid (Ngp_9.out.grown hga10 (by simp)); have Ngq_10 := Lib.hid (Ngq_9.out.grown hga10 (by simp)); have Ngr_10 := Lib.hid (Ngr_9.out.grown hga10 (by simp)); have Ngu_10 : Hid (RAt u10 x9.heap.size [0, 0, 0, 0]) := Lib.hid (zrow (k := 4) ha10); have HF_10 : Hid (Below w.heap.size w u10) := Lib.hid (HF_9.out.grown hga10 HF_9.out.size (by simp)); have HNE10_3 : Hid (w.heap.size ≠ x9.heap.size) := Lib.hid (by have := Ngp_9.out.lt; omega); have HNE10_4 : Hid (gq ≠ x9.heap.size) := Lib.hid (by have := Ngq_9.out.lt; omega); have HNE10_5 : Hid (gr ≠ x9.heap.size) := Lib.hid (by have := Ngr_9.out.lt; omega); have HGE10 : Hid (w.heap.size ≤ x9.heap.size) := Lib.hid HF_9.out.size; clear ha10 hza10 hga10 Ngp_9 Ngq_9 Ngr_9 HF_9)) | ((with_reducible show wpList _ _ _ (⟨some 6, .alloc 76, _, _, _, _⟩ :: _) _ _); go_must (refine wpList_alloc_row rfl 76 rfl (.agg (zbs 128)) zero76 ?_; intro u11 ha11 hza11 hga11; have Ngp_11 := Lib.hid (Ngp_10.out.grown hga11 (by simp)); have Ngq_11 := Lib.hid (Ngq_10.out.grown hga11 (by simp)); have Ngr_11 := Lib.hid (Ngr_10.out.grown hga11 (by simp)); have Ngu_11 := Lib.hid (Ngu_10.out.grown hga11 (by simp)); have Ngv_11 : Hid (RAt u11 u10.heap.size [0, 0, 0, 0]) := Lib.hid (zrow (k := 4) ha11); have HF_11 : Hid (Below w.heap.size w u11) := Lib.hid (HF_10.out.grown hga11 HF_10.out.size (by simp)); have HNE11_6 : Hid (w.heap.size ≠ u10.heap.size) := Lib.hid (by have := Ngp_10.out.lt; omega); have HNE11_7 : Hid (gq ≠ u10.heap.size) := Lib.hid (by have := Ngq_10.out.lt; omega); have HNE11_8 : Hid (gr ≠ u10.heap.size) := Lib.hid (by have := Ngr_10.out.lt; omega); have HNE11_9 : Hid (x9.heap.size ≠ u10.heap.size) := Lib.hid (by have := Ngu_10.out.lt; omega); have HGE11 : Hid (w.heap.size ≤ u10.heap.size) := Lib.hid HF_10.out.size; clear ha11 hza11 hga11 Ngp_10 Ngq_10 Ngr_10 Ngu_10 HF_10)) | fail)
  generalize x9.heap.size = gu at *
  generalize u10.heap.size = gv at *
  refine (HR1.out _ _ _ Ngu_11.out Ngp_11.out HNE10_3.out.symm).mono ?_
  rintro e12 x12 ⟨rfl, hr12, hk12⟩
  have Ngp_12 := Lib.hid (Ngp_11.out.keeps hk12 (by have := HNE10_3.out; show ¬ _ = _; omega))
  have Ngq_12 := Lib.hid (Ngq_11.out.keeps hk12 (by have := HNE10_4.out; show ¬ _ = _; omega))
  have Ngr_12 := Lib.hid (Ngr_11.out.keeps hk12 (by have := HNE10_5.out; show ¬ _ = _; omega))
  have Ngu_12 : Hid (RAt x12 gu [x1, y1, 1, t1]) := Lib.hid hr12
  have Ngv_12 := Lib.hid (Ngv_11.out.keeps hk12 (by have := HNE11_9.out; show ¬ _ = _; omega))
  have HF_12 : Hid (Below w.heap.size w x12) := Lib.hid (HF_11.out.trans (hk12.below HF_11.out.size (fun k hlt => by have := HGE10.out; show ¬ _ = _; omega)))
  clear hr12 hk12 Ngp_11 Ngq_11 Ngr_11 Ngu_11 Ngv_11 HF_11
  go_wp2_with fail
  refine (HR2.out _ _ _ Ngv_12.out Ngq_12.out HNE11_7.out.symm).mono ?_
  rintro e13 x13 ⟨rfl, hr13, hk13⟩
  have Ngp_13 := Lib.hid (Ngp_12.out.keeps hk13 (by have := HNE11_6.out; show ¬ _ = _; omega))
  have Ngq_13 := Lib.hid (Ngq_12.out.keeps hk13 (by have := HNE11_7.out; show ¬ _ = _; omega))
  have Ngr_13 := Lib.hid (Ngr_12.out.keeps hk13 (by have := HNE11_8.out; show ¬ _ = _; omega))
  have Ngu_13 := Lib.hid (Ngu_12.out.keeps hk13 (by have := HNE11_9.out; show ¬ _ = _; omega))
  have Ngv_13 : Hid (RAt x13 gv [x2, y2, 1, t2]) := Lib.hid hr13
  have HF_13 : Hid (Below w.heap.size w x13) := Lib.hid (HF_12.out.trans (hk13.below HF_12.out.size (fun k hlt => by have := HGE11.out; show ¬ _ = _; omega)))
  clear hr13 hk13 Ngp_12 Ngq_12 Ngr_12 Ngu_12 Ngv_12 HF_12
  go_wp2_with fail
  refine (HA.out _ _ _ Ngu_13.out Ngv_13.out).mono ?_
  rintro e14 x14 ⟨rfl, hr14, hk14⟩
  have Ngp_14 := Lib.hid (Ngp_13.out.keeps hk14 (by have := HNE10_3.out; show ¬ _ = _; omega))
  have Ngq_14 := Lib.hid (Ngq_13.out.keeps hk14 (by have := HNE10_4.out; show ¬ _ = _; omega))
  have Ngr_14 := Lib.hid (Ngr_13.out.keeps hk14 (by have := HNE10_5.out; show ¬ _ = _; omega))
  have Ngu_14 : Hid (RAt x14 gu [X, Y, Z, T]) := Lib.hid hr14
  have Ngv_14 := Lib.hid (Ngv_13.out.keeps hk14 (by have := HNE11_9.out; show ¬ _ = _; omega))
  have HF_14 : Hid (Below w.heap.size w x14) := Lib.hid (HF_13.out.trans (hk14.below HF_13.out.size (fun k hlt => by have := HGE10.out; show ¬ _ = _; omega)))
  clear hr14 hk14 Ngp_13 Ngq_13 Ngr_13 Ngu_13 Ngv_13 HF_13
  go_wp2_with fail
  refine (HP.out _ _ Ngu_14.out).mono ?_
  rintro e15 x15 ⟨rfl, hb15⟩
  have Ngp_15 := Lib.hid (Ngp_14.out.keep hb15)
  have Ngq_15 := Lib.hid (Ngq_14.out.keep hb15)
  have Ngr_15 := Lib.hid (Ngr_14.out.keep hb15)
  have Ngu_15 := Lib.hid (Ngu_14.out.keep hb15)
  have Ngv_15 := Lib.hid (Ngv_14.out.keep hb15)
  have HF_15 : Hid (Below w.heap.size w x15) := Lib.hid (HF_14.out.trans (hb15.mono HF_14.out.size))
  clear hb15 Ngp_14 Ngq_14 Ngr_14 Ngu_14 Ngv_14 HF_14
  go_wp2_with (first | ((with_reducible show wpList _ _ _ (⟨none, .store 35 (.tmp 4) (.tmp 19), _, _, _, _⟩ :: _) _ _); go_must (refine wpList_storeP rfl (.tmp 4) (.tmp 19) rfl (gr) [0, 0] PX PY rfl rfl Ngr_15.out rfl ?_; intro y16 hr16 hg16 hz16; have Ngp_16 := Lib.hid (Ngp_15.out.grown hg16 (by have := HNE7_1.out; simp; omega)); have Ngq_16 := Lib.hid (Ngq_15.out.grown hg16 (by have := HNE7_2.out; simp; omega)); have Ngr_16 : Hid (RAt y16 gr [PX, PY]) := Lib.hid hr16; have Ngu_16 := Lib.hid (Ngu_15.out.grown hg16 (by have := HNE10_5.out; simp; omega)); have Ngv_16 := Lib.hid (Ngv_15.out.grown hg16 (by have := HNE11_8.out; simp; omega)); have HF_16 : Hid (Below w.heap.size w y16) := Lib.hid (HF_15.out.grown hg16 HF_15.out.size (fun r hr => by injection hr with hr; have := HGE7.out; omega)); clear hr16 hg16 hz16 Ngp_15 Ngq_15 Ngr_15 Ngu_15 Ngv_15 HF_15)) | fail)
  go_wp2_with fail
  obtain ⟨tr, htr⟩ := Ngr_16.out
  refine bodyPost_ret (results_cell_row rfl _ _ gr tr (bcs (encs [PX, PY])).toArray _ _ rfl htr Try.underlying35 rfl (by rw [List.size_toArray, bcs_len, encs_len]; exact size35)) rfl ?_
  exact ⟨rfl, HF_16.out⟩

set_option maxHeartbeats 4000000 in
theorem PAdd_bad1 (x1 y1 x2 y2 : Nat) (w : World) (C1 : Hid (∀ w, Calls Try.prog 40 #[vR [x1, y1]] w (Gives (.int .i64 2) w)))
    (CZ : Hid (∀ w, Calls Try.prog 39 #[] w (Gives (vR [0, 1]) w))) :
    Calls Try.prog 44 #[vR [x1, y1], vR [x2, y2]] w (Gives (vR [0, 1]) w) := by
  have HF_0 : Hid (Below w.heap.size w w) := Lib.hid (Below.refl _ _)
  go_enter Try.func44, Try.ntmps44
  go_wp2_with (first | ((with_reducible show wpList _ _ _ (⟨some 2, .box 35 (.tmp 0), _, _, _, _⟩ :: _) _ _); go_must (refine wpList_box_row rfl 35 (.tmp 0) rfl (bcs (encs [x1, y1])).toArray rfl ?_; intro u17 ha17 hza17 hga17; have Ngp_17 : Hid (RAt u17 w.heap.size [x1, y1]) := Lib.hid (⟨_, ha17⟩); have HF_17 : Hid (Below w.heap.size w u17) := Lib.hid (HF_0.out.grown hga17 HF_0.out.size (by simp)); have HGE17 : Hid (w.heap.size ≤ w.heap.size) := Lib.hid HF_0.out.size; clear ha17 hza17 hga17 HF_0)) | ((with_reducible show wpList _ _ _ (⟨some 3, .box 35 (.tmp 1), _, _, _, _⟩ :: _) _ _); go_must (refine wpList_box_row rfl 35 (.tmp 1) rfl (bcs (encs [x2, y2])).toArray rfl ?_; intro u18 ha18 hza18 hga18; have Ngp_18 := Lib.hid (Ngp_17.out.grown hga18 (by simp)); have Ngq_18 : Hid (RAt u18 u17.heap.size [x2, y2]) := Lib.hid (⟨_, ha18⟩); have HF_18 : Hid (Below w.heap.size w u18) := Lib.hid (HF_17.out.grown hga18 HF_17.out.size (by simp)); have HNE18_0 : Hid (w.heap.size ≠ u17.heap.size) := Lib.hid (by have := Ngp_17.out.lt; omega); have HGE18 : Hid (w.heap.size ≤ u17.heap.size) := Lib.hid HF_17.out.size; clear ha18 hza18 hga18 Ngp_17 HF_17)) | ((with_reducible show wpList _ _ _ (⟨some 4, .alloc 35, _, _, _, _⟩ :: _) _ _); go_must (refine wpList_alloc_row rfl 35 rfl (.agg (zbs 64)) zero35 ?_; intro u19 ha19 hza19 hga19; have Ngp_19 := Lib.hid (Ngp_18.out.grown hga19 (by simp)); have Ngq_19 := Lib.hid (Ngq_18.out.grown hga19 (by simp)); have Ngr_19 : Hid (RAt u19 u18.heap.size [0, 0]) := Lib.hid (zrow (k := 2) ha19); have HF_19 : Hid (Below w.heap.size w u19) := Lib.hid (HF_18.out.grown hga19 HF_18.out.size (by simp)); have HNE19_1 : Hid (w.heap.size ≠ u18.heap.size) := Lib.hid (by have := Ngp_18.out.lt; omega); have HNE19_2 : Hid (u17.heap.size ≠ u18.heap.size) := Lib.hid (by have := Ngq_18.out.lt; omega); have HGE19 : Hid (w.heap.size ≤ u18.heap.size) := Lib.hid HF_18.out.size; clear ha19 hza19 hga19 Ngp_18 Ngq_18 HF_18)) | ((with_reducible show wpList _ _ _ (⟨_, .load 35 (.tmp 2), _, _, _, _⟩ :: _) _ _); go_must (refine wpList_exec rfl (vR [x1, y1]) (exec_loadP (.tmp 2) rfl (w.heap.size) x1 y1 rfl Ngp_19.out) ?_)) | fail)
  generalize u17.heap.size = gq at *
  generalize u18.heap.size = gr at *
  refine (C1.out _).mono ?_
  rintro e20 x20 ⟨rfl, hb20⟩
  have Ngp_20 := Lib.hid (Ngp_19.out.keep hb20)
  have Ngq_20 := Lib.hid (Ngq_19.out.keep hb20)
  have Ngr_20 := Lib.hid (Ngr_19.out.keep hb20)
  have HF_20 : Hid (Below w.heap.size w x20) := Lib.hid (HF_19.out.trans (hb20.mono HF_19.out.size))
  clear hb20 Ngp_19 Ngq_19 Ngr_19 HF_19
  go_wp2_with fail
  refine (CZ.out _).mono ?_
  rintro e21 x21 ⟨rfl, hb21⟩
  have Ngp_21 := Lib.hid (Ngp_20.out.keep hb21)
  have Ngq_21 := Lib.hid (Ngq_20.out.keep hb21)
  have Ngr_21 := Lib.hid (Ngr_20.out.keep hb21)
  have HF_21 : Hid (Below w.heap.size w x21) := Lib.hid (HF_20.out.trans (hb21.mono HF_20.out.size))
  clear hb21 Ngp_20 Ngq_20 Ngr_20 HF_20
  go_wp2_with (first | ((with_reducible show wpList _ _ _ (⟨none, .store 35 (.tmp 4) (.tmp 15), _, _, _, _⟩ :: _) _ _); go_must (refine wpList_storeP rfl (.tmp 4) (.tmp 15) rfl (gr) [0, 0] 0 1 rfl rfl Ngr_21.out rfl ?_; intro y22 hr22 hg22 hz22; have Ngp_22 := Lib.hid (Ngp_21.out.grown hg22 (by have := HNE19_1.out; simp; omega)); have Ngq_22 := Lib.hid (Ngq_21.out.grown hg22 (by have := HNE19_2.out; simp; omega)); have Ngr_22 : Hid (RAt y22 gr [0, 1]) := Lib.hid hr22; have HF_22 : Hid (Below w.heap.size w y22) := Lib.hid (HF_21.out.grown hg22 HF_21.out.size (fun r hr => by injection hr with hr; have := HGE19.out; omega)); clear hr22 hg22 hz22 Ngp_21 Ngq_21 Ngr_21 HF_21)) | fail)
  go_wp2_with fail
  obtain ⟨tr, htr⟩ := Ngr_22.out
  refine bodyPost_ret (results_cell_row rfl _ _ gr tr (bcs (encs [0, 1])).toArray _ _ rfl htr Try.underlying35 rfl (by rw [List.size_toArray, bcs_len, encs_len]; exact size35)) rfl ?_
  exact ⟨rfl, HF_22.out⟩

set_option maxHeartbeats 4000000 in
theorem PAdd_bad2 (x1 y1 x2 y2 : Nat) (w : World) (C1 : Hid (∀ w, Calls Try.prog 40 #[vR [x1, y1]] w (Gives (.int .i64 0) w))) (C2 : Hid (∀ w, Calls Try.prog 40 #[vR [x2, y2]] w (Gives (.int .i64 2) w)))
    (CZ : Hid (∀ w, Calls Try.prog 39 #[] w (Gives (vR [0, 1]) w))) :
    Calls Try.prog 44 #[vR [x1, y1], vR [x2, y2]] w (Gives (vR [0, 1]) w) := by
  have HF_0 : Hid (Below w.heap.size w w) := Lib.hid (Below.refl _ _)
  go_enter Try.func44, Try.ntmps44
  go_wp2_with (first | ((with_reducible show wpList _ _ _ (⟨some 2, .box 35 (.tmp 0), _, _, _, _⟩ :: _) _ _); go_must (refine wpList_box_row rfl 35 (.tmp 0) rfl (bcs (encs [x1, y1])).toArray rfl ?_; intro u23 ha23 hza23 hga23; have Ngp_23 : Hid (RAt u23 w.heap.size [x1, y1]) := Lib.hid (⟨_, ha23⟩); have HF_23 : Hid (Below w.heap.size w u23) := Lib.hid (HF_0.out.grown hga23 HF_0.out.size (by simp)); have HGE23 : Hid (w.heap.size ≤ w.heap.size) := Lib.hid HF_0.out.size; clear ha23 hza23 hga23 HF_0)) | ((with_reducible show wpList _ _ _ (⟨some 3, .box 35 (.tmp 1), _, _, _, _⟩ :: _) _ _); go_must (refine wpList_box_row rfl 35 (.tmp 1) rfl (bcs (encs [x2, y2])).toArray rfl ?_; intro u24 ha24 hza24 hga24; have Ngp_24 := Lib.hid (Ngp_23.out.grown hga24 (by simp)); have Ngq_24 : Hid (RAt u24 u23.heap.size [x2, y2]) := Lib.hid (⟨_, ha24⟩); have HF_24 : Hid (Below w.heap.size w u24) := Lib.hid (HF_23.out.grown hga24 HF_23.out.size (by simp)); have HNE24_0 : Hid (w.heap.size ≠ u23.heap.size) := Lib.hid (by have := Ngp_23.out.lt; omega); have HGE24 : Hid (w.heap.size ≤ u23.heap.size) := Lib.hid HF_23.out.size; clear ha24 hza24 hga24 Ngp_23 HF_23)) | ((with_reducible show wpList _ _ _ (⟨some 4, .alloc 35, _, _, _, _⟩ :: _) _ _); go_must (refine wpList_alloc_row rfl 35 rfl (.agg (zbs 64)) zero35 ?_; intro u25 ha25 hza25 hga25; have Ngp_25 := Lib.hid (Ngp_24.out.grown hga25 (by simp)); have Ngq_25 := Lib.hid (Ngq_24.out.grown hga25 (by simp)); have Ngr_25 : Hid (RAt u25 u24.heap.size [0, 0]) := Lib.hid (zrow (k := 2) ha25); have HF_25 : Hid (Below w.heap.size w u25) := Lib.hid (HF_24.out.grown hga25 HF_24.out.size (by simp)); have HNE25_1 : Hid (w.heap.size ≠ u24.heap.size) := Lib.hid (by have := Ngp_24.out.lt; omega); have HNE25_2 : Hid (u23.heap.size ≠ u24.heap.size) := Lib.hid (by have := Ngq_24.out.lt; omega); have HGE25 : Hid (w.heap.size ≤ u24.heap.size) := Lib.hid HF_24.out.size; clear ha25 hza25 hga25 Ngp_24 Ngq_24 HF_24)) | ((with_reducible show wpList _ _ _ (⟨_, .load 35 (.tmp 2), _, _, _, _⟩ :: _) _ _); go_must (refine wpList_exec rfl (vR [x1, y1]) (exec_loadP (.tmp 2) rfl (w.heap.size) x1 y1 rfl Ngp_25.out) ?_)) | fail)
  generalize u23.heap.size = gq at *
  generalize u24.heap.size = gr at *
  refine (C1.out _).mono ?_
  rintro e26 x26 ⟨rfl, hb26⟩
  have Ngp_26 := Lib.hid (Ngp_25.out.keep hb26)
  have Ngq_26 := Lib.hid (Ngq_25.out.keep hb26)
  have Ngr_26 := Lib.hid (Ngr_25.out.keep hb26)
  have HF_26 : Hid (Below w.heap.size w x26) := Lib.hid (HF_25.out.trans (hb26.mono HF_25.out.size))
  clear hb26 Ngp_25 Ngq_25 Ngr_25 HF_25
  go_wp2_with (first | ((with_reducible show wpList _ _ _ (⟨_, .load 35 (.tmp 3), _, _, _, _⟩ :: _) _ _); go_must (refine wpList_exec rfl (vR [x2, y2]) (exec_loadP (.tmp 3) rfl (gq) x2 y2 rfl Ngq_26.out) ?_)) | fail)
  refine (C2.out _).mono ?_
  rintro e27 x27 ⟨rfl, hb27⟩
  have Ngp_27 := Lib.hid (Ngp_26.out.keep hb27)
  have Ngq_27 := Lib.hid (Ngq_26.out.keep hb27)
  have Ngr_27 := Lib.hid (Ngr_26.out.keep hb27)
  have HF_27 : Hid (Below w.heap.size w x27) := Lib.hid (HF_26.out.trans (hb27.mono HF_26.out.size))
  clear hb27 Ngp_26 Ngq_26 Ngr_26 HF_26
  go_wp2_with fail
  refine (CZ.out _).mono ?_
  rintro e28 x28 ⟨rfl, hb28⟩
  have Ngp_28 := Lib.hid (Ngp_27.out.keep hb28)
  have Ngq_28 := Lib.hid (Ngq_27.out.keep hb28)
  have Ngr_28 := Lib.hid (Ngr_27.out.keep hb28)
  have HF_28 : Hid (Below w.heap.size w x28) := Lib.hid (HF_27.out.trans (hb28.mono HF_27.out.size))
  clear hb28 Ngp_27 Ngq_27 Ngr_27 HF_27
  go_wp2_with (first | ((with_reducible show wpList _ _ _ (⟨none, .store 35 (.tmp 4) (.tmp 15), _, _, _, _⟩ :: _) _ _); go_must (refine wpList_storeP rfl (.tmp 4) (.tmp 15) rfl (gr) [0, 0] 0 1 rfl rfl Ngr_28.out rfl ?_; intro y29 hr29 hg29 hz29; have Ngp_29 := Lib.hid (Ngp_28.out.grown hg29 (by have := HNE25_1.out; simp; omega)); have Ngq_29 := Lib.hid (Ngq_28.out.grown hg29 (by have := HNE25_2.out; simp; omega)); have Ngr_29 : Hid (RAt y29 gr [0, 1]) := Lib.hid hr29; have HF_29 : Hid (Below w.heap.size w y29) := Lib.hid (HF_28.out.grown hg29 HF_28.out.size (fun r hr => by injection hr with hr; have := HGE25.out; omega)); clear hr29 hg29 hz29 Ngp_28 Ngq_28 Ngr_28 HF_28)) | fail)
  go_wp2_with fail
  obtain ⟨tr, htr⟩ := Ngr_29.out
  refine bodyPost_ret (results_cell_row rfl _ _ gr tr (bcs (encs [0, 1])).toArray _ _ rfl htr Try.underlying35 rfl (by rw [List.size_toArray, bcs_len, encs_len]; exact size35)) rfl ?_
  exact ⟨rfl, HF_29.out⟩

set_option maxHeartbeats 4000000 in
theorem PNeg_core (x1 y1 m : Nat) (w : World)
    (C1 : Hid (∀ w, Calls Try.prog 40 #[vR [x1, y1]] w (Gives (.int .i64 0) w))) (C0 : Hid (∀ w, Calls Try.prog 23 #[vN x1] w (Gives (vN m) w))) :
    Calls Try.prog 51 #[vR [x1, y1]] w (Gives (vR [m, y1]) w) := by
  have HF_0 : Hid (Below w.heap.size w w) := Lib.hid (Below.refl _ _)
  go_enter Try.func51, Try.ntmps51
  go_wp2_with (first | ((with_reducible show wpList _ _ _ (⟨some 1, .box 35 (.tmp 0), _, _, _, _⟩ :: _) _ _); go_must (refine wpList_box_row rfl 35 (.tmp 0) rfl (bcs (encs [x1, y1])).toArray rfl ?_; intro u30 ha30 hza30 hga30; have Ngp_30 : Hid (RAt u30 w.heap.size [x1, y1]) := Lib.hid (⟨_, ha30⟩); have HF_30 : Hid (Below w.heap.size w u30) := Lib.hid (HF_0.out.grown hga30 HF_0.out.size (by simp)); have HGE30 : Hid (w.heap.size ≤ w.heap.size) := Lib.hid HF_0.out.size; clear ha30 hza30 hga30 HF_0)) | ((with_reducible show wpList _ _ _ (⟨some 2, .alloc 35, _, _, _, _⟩ :: _) _ _); go_must (refine wpList_alloc_row rfl 35 rfl (.agg (zbs 64)) zero35 ?_; intro u31 ha31 hza31 hga31; have Ngp_31 := Lib.hid (Ngp_30.out.grown hga31 (by simp)); have Ngr_31 : Hid (RAt u31 u30.heap.size [0, 0]) := Lib.hid (zrow (k := 2) ha31); have HF_31 : Hid (Below w.heap.size w u31) := Lib.hid (HF_30.out.grown hga31 HF_30.out.size (by simp)); have HNE31_0 : Hid (w.heap.size ≠ u30.heap.size) := Lib.hid (by have := Ngp_30.out.lt; omega); have HGE31 : Hid (w.heap.size ≤ u30.heap.size) := Lib.hid HF_30.out.size; clear ha31 hza31 hga31 Ngp_30 HF_30)) | ((with_reducible show wpList _ _ _ (⟨_, .load 35 (.tmp 1), _, _, _, _⟩ :: _) _ _); go_must (refine wpList_exec rfl (vR [x1, y1]) (exec_loadP (.tmp 1) rfl (w.heap.size) x1 y1 rfl Ngp_31.out) ?_)) | fail)
  generalize u30.heap.size = gr at *
  refine (C1.out _).mono ?_
  rintro e32 x32 ⟨rfl, hb32⟩
  have Ngp_32 := Lib.hid (Ngp_31.out.keep hb32)
  have Ngr_32 := Lib.hid (Ngr_31.out.keep hb32)
  have HF_32 : Hid (Below w.heap.size w x32) := Lib.hid (HF_31.out.trans (hb32.mono HF_31.out.size))
  clear hb32 Ngp_31 Ngr_31 HF_31
  go_wp2_with fail
  have HLT33_0 : Hid (w.heap.size < x32.heap.size) := Lib.hid Ngp_32.out.lt
  have HLT33_1 : Hid (gr < x32.heap.size) := Lib.hid Ngr_32.out.lt
  have HLO33 : Hid (w.heap.size ≤ x32.heap.size) := Lib.hid HF_32.out.size
  refine region_split (fun a' W => RAt W w.heap.size [x1, y1] ∧ RAt W gr [m, y1] ∧ Below w.heap.size w W ∧ a' = ⟨#[vR [x1, y1], .pointer (some ⟨w.heap.size, 0, none⟩), .pointer (some ⟨gr, 0, none⟩), vR [x1, y1], .int .i64 0, .bool false, undef, .pointer (some ⟨w.heap.size, 0, none⟩), vN x1, vN m, .pointer (some ⟨w.heap.size, 32, none⟩), vN y1, vR [m, y1]], []⟩) ?_ ?_
  · refine startW (fun j => j == 6) (x32.heap.size) (by kernel_rfl) ?_
    obtain ⟨D33, hD33⟩ : ∃ D, D = x32.drew := ⟨_, rfl⟩
    rw [← hD33]
    have HL_33 : Hid (x32.heap.size ≤ D33.heap.size) := Lib.hid (by rw [hD33]; exact Nat.le_refl _)
    have Ngp_33 : Hid (RAt D33 w.heap.size [x1, y1]) := Lib.hid (by rw [hD33]; exact Ngp_32.out)
    have Ngr_33 : Hid (RAt D33 gr [0, 0]) := Lib.hid (by rw [hD33]; exact Ngr_32.out)
    have HF_33 : Hid (Below w.heap.size w D33) := Lib.hid (by rw [hD33]; exact below_drewN' HF_32.out 1)
    clear hD33 Ngp_32 Ngr_32 HF_32
    refine takeAE (i := 0) (oi := { dst := some 7, op := Op.fieldAddr 35 (Operand.tmp 1) 0, type := 0, pos := "curve.go:68", after := #[], guard := none }) rfl (by kernel_rfl) (by kernel_rfl) (by kernel_rfl) (fun _ _ _ _ h => nomatch h.1) (by rfl) ?_
    refine ⟨.pointer (some ⟨w.heap.size, 0, none⟩), fun w' => exec_field 35 (.tmp 1) 0 rfl _ 0 rfl (fld35_0 _), ?_⟩
    simp only [Act.put, List.setIfInBounds_toArray, List.set_cons_zero, List.set_cons_succ]
    refine takeT (i := 1) (oi := { dst := some 8, op := Op.load 23 (Operand.tmp 7), type := 23, pos := "curve.go:68", after := #[{ on := 0, ground := Ground.data }], guard := none }) (vN x1) rfl (by kernel_rfl) (by kernel_rfl) (by kernel_rfl) (by kernel_rfl) (by kernel_rfl) (fun _ _ _ h => nomatch h.1) (by rfl) (fun w' hk => exec_loadF (.tmp 7) rfl (w.heap.size) 0 0 rfl [x1, y1] x1 rfl (Ngp_33.out.below hk HLT33_0.out) rfl) ?_
    simp only [Act.put, List.setIfInBounds_toArray, List.set_cons_zero, List.set_cons_succ]
    refine takeAE (i := 3) (oi := { dst := some 10, op := Op.fieldAddr 35 (Operand.tmp 1) 1, type := 0, pos := "curve.go:68", after := #[], guard := none }) rfl (by kernel_rfl) (by kernel_rfl) (by kernel_rfl) (fun _ _ _ _ h => nomatch h.1) (by rfl) ?_
    refine ⟨.pointer (some ⟨w.heap.size, 32, none⟩), fun w' => exec_field 35 (.tmp 1) 1 rfl _ 32 rfl (fld35_1 _), ?_⟩
    simp only [Act.put, List.setIfInBounds_toArray, List.set_cons_zero, List.set_cons_succ]
    refine takeT (i := 4) (oi := { dst := some 11, op := Op.load 23 (Operand.tmp 10), type := 23, pos := "curve.go:68", after := #[{ on := 3, ground := Ground.data }], guard := none }) (vN y1) rfl (by kernel_rfl) (by kernel_rfl) (by kernel_rfl) (by kernel_rfl) (by kernel_rfl) (fun _ _ _ h => nomatch h.1) (by rfl) (fun w' hk => exec_loadF (.tmp 10) rfl (w.heap.size) 1 32 rfl [x1, y1] y1 rfl (Ngp_33.out.below hk HLT33_0.out) rfl) ?_
    simp only [Act.put, List.setIfInBounds_toArray, List.set_cons_zero, List.set_cons_succ]
    refine callW (i := 2) (oi := { dst := some 9, op := Op.call { callee := Callee.value (Operand.func 23), args := #[Operand.tmp 8], argTypes := #[23] }, type := 23, pos := "curve.go:68", after := #[{ on := 1, ground := Ground.data }], guard := none }) rfl (by kernel_rfl) (by rfl) (exec_callL 23 [.tmp 8] #[23] rfl [vN x1] rfl (CG23 _)) ((C0.out D33).mono ?_)
    rintro e34 W34 ⟨rfl, hb34⟩
    refine ⟨_, rfl, fun _ => hb34.mono HL_33.out, ?_⟩
    have Ngp_34 := Lib.hid (Ngp_33.out.keep hb34)
    have Ngr_34 := Lib.hid (Ngr_33.out.keep hb34)
    have HF_34 : Hid (Below w.heap.size w W34) := Lib.hid (HF_33.out.trans (hb34.mono HF_33.out.size))
    have HL_34 : Hid (x32.heap.size ≤ W34.heap.size) := Lib.hid (Nat.le_trans HL_33.out hb34.size)
    clear hb34 HL_33 Ngp_33 Ngr_33 HF_33
    simp only [Act.put, List.setIfInBounds_toArray, List.set_cons_zero, List.set_cons_succ]
    refine takeAE (i := 5) (oi := { dst := some 12, op := Op.build 35 #[(0, Operand.tmp 9), (1, Operand.tmp 11)], type := 35, pos := "curve.go:68", after := #[{ on := 2, ground := Ground.data }, { on := 4, ground := Ground.data }], guard := none }) rfl (by kernel_rfl) (by kernel_rfl) (by kernel_rfl) (fun _ _ _ _ h => nomatch h.1) (by rfl) ?_
    refine ⟨vR [m, y1], fun w' => exec_build35 (.tmp 9) (.tmp 11) m y1 rfl rfl rfl, ?_⟩
    simp only [Act.put, List.setIfInBounds_toArray, List.set_cons_zero, List.set_cons_succ]
    refine storeW_P (i := 6) (oi := { dst := none, op := Op.store 35 (Operand.tmp 2) (Operand.tmp 12), type := 0, pos := "curve.go:68", after := #[{ on := 5, ground := Ground.data }, { on := 2, ground := Ground.chain }, { on := 0, ground := Ground.phase }, { on := 1, ground := Ground.phase }, { on := 2, ground := Ground.phase }, { on := 3, ground := Ground.phase }, { on := 4, ground := Ground.phase }, { on := 5, ground := Ground.phase }], guard := none }) rfl (by kernel_rfl) (by rfl) (.tmp 2) (.tmp 12) rfl (gr) [0, 0] m y1 rfl rfl Ngr_34.out rfl rfl ?_
    intro W35 hr35 hg35 hz35
    simp only [Act.put, List.setIfInBounds_toArray, List.set_cons_zero, List.set_cons_succ]
    have Ngp_35 := Lib.hid (Ngp_34.out.grown hg35 (by have := HNE31_0.out; simp; omega))
    have Ngr_35 : Hid (RAt W35 gr [m, y1]) := Lib.hid hr35
    have HF_35 : Hid (Below w.heap.size w W35) := Lib.hid (HF_34.out.grown hg35 HF_34.out.size (fun r hr => by injection hr with hr; have := HGE31.out; omega))
    have HL_35 : Hid (x32.heap.size ≤ W35.heap.size) := Lib.hid (Nat.le_trans HL_34.out hg35.size)
    clear hr35 hg35 hz35 HL_34 Ngp_34 Ngr_34 HF_34
    refine doneW (by kernel_rfl) ⟨rfl, ?_⟩ _
    exact ⟨Ngp_35.out, Ngr_35.out, HF_35.out, rfl⟩
  rintro a' v36 ⟨h0, h1, hF, rfl⟩
  have Ngp_36 := Lib.hid h0
  have Ngr_36 := Lib.hid h1
  have HF_36 := Lib.hid hF
  clear h0 h1 hF HLT33_0 HLT33_1 HLO33 Ngp_32 Ngr_32 HF_32
  go_wp2_with fail
  obtain ⟨tr, htr⟩ := Ngr_36.out
  refine bodyPost_ret (results_cell_row rfl _ _ gr tr (bcs (encs [m, y1])).toArray _ _ rfl htr Try.underlying35 rfl (by rw [List.size_toArray, bcs_len, encs_len]; exact size35)) rfl ?_
  exact ⟨rfl, HF_36.out⟩

set_option maxHeartbeats 4000000 in
theorem PNeg_bad (x1 y1 : Nat) (w : World)
    (C1 : Hid (∀ w, Calls Try.prog 40 #[vR [x1, y1]] w (Gives (.int .i64 2) w))) (CZ : Hid (∀ w, Calls Try.prog 39 #[] w (Gives (vR [0, 1]) w))) :
    Calls Try.prog 51 #[vR [x1, y1]] w (Gives (vR [0, 1]) w) := by
  have HF_0 : Hid (Below w.heap.size w w) := Lib.hid (Below.refl _ _)
  go_enter Try.func51, Try.ntmps51
  go_wp2_with (first | ((with_reducible show wpList _ _ _ (⟨some 1, .box 35 (.tmp 0), _, _, _, _⟩ :: _) _ _); go_must (refine wpList_box_row rfl 35 (.tmp 0) rfl (bcs (encs [x1, y1])).toArray rfl ?_; intro u37 ha37 hza37 hga37; have Ngp_37 : Hid (RAt u37 w.heap.size [x1, y1]) := Lib.hid (⟨_, ha37⟩); have HF_37 : Hid (Below w.heap.size w u37) := Lib.hid (HF_0.out.grown hga37 HF_0.out.size (by simp)); have HGE37 : Hid (w.heap.size ≤ w.heap.size) := Lib.hid HF_0.out.size; clear ha37 hza37 hga37 HF_0)) | ((with_reducible show wpList _ _ _ (⟨some 2, .alloc 35, _, _, _, _⟩ :: _) _ _); go_must (refine wpList_alloc_row rfl 35 rfl (.agg (zbs 64)) zero35 ?_; intro u38 ha38 hza38 hga38; have Ngp_38 := Lib.hid (Ngp_37.out.grown hga38 (by simp)); have Ngr_38 : Hid (RAt u38 u37.heap.size [0, 0]) := Lib.hid (zrow (k := 2) ha38); have HF_38 : Hid (Below w.heap.size w u38) := Lib.hid (HF_37.out.grown hga38 HF_37.out.size (by simp)); have HNE38_0 : Hid (w.heap.size ≠ u37.heap.size) := Lib.hid (by have := Ngp_37.out.lt; omega); have HGE38 : Hid (w.heap.size ≤ u37.heap.size) := Lib.hid HF_37.out.size; clear ha38 hza38 hga38 Ngp_37 HF_37)) | ((with_reducible show wpList _ _ _ (⟨_, .load 35 (.tmp 1), _, _, _, _⟩ :: _) _ _); go_must (refine wpList_exec rfl (vR [x1, y1]) (exec_loadP (.tmp 1) rfl (w.heap.size) x1 y1 rfl Ngp_38.out) ?_)) | fail)
  generalize u37.heap.size = gr at *
  refine (C1.out _).mono ?_
  rintro e39 x39 ⟨rfl, hb39⟩
  have Ngp_39 := Lib.hid (Ngp_38.out.keep hb39)
  have Ngr_39 := Lib.hid (Ngr_38.out.keep hb39)
  have HF_39 : Hid (Below w.heap.size w x39) := Lib.hid (HF_38.out.trans (hb39.mono HF_38.out.size))
  clear hb39 Ngp_38 Ngr_38 HF_38
  go_wp2_with fail
  refine (CZ.out _).mono ?_
  rintro e40 x40 ⟨rfl, hb40⟩
  have Ngp_40 := Lib.hid (Ngp_39.out.keep hb40)
  have Ngr_40 := Lib.hid (Ngr_39.out.keep hb40)
  have HF_40 : Hid (Below w.heap.size w x40) := Lib.hid (HF_39.out.trans (hb40.mono HF_39.out.size))
  clear hb40 Ngp_39 Ngr_39 HF_39
  go_wp2_with (first | ((with_reducible show wpList _ _ _ (⟨none, .store 35 (.tmp 2) (.tmp 6), _, _, _, _⟩ :: _) _ _); go_must (refine wpList_storeP rfl (.tmp 2) (.tmp 6) rfl (gr) [0, 0] 0 1 rfl rfl Ngr_40.out rfl ?_; intro y41 hr41 hg41 hz41; have Ngp_41 := Lib.hid (Ngp_40.out.grown hg41 (by have := HNE38_0.out; simp; omega)); have Ngr_41 : Hid (RAt y41 gr [0, 1]) := Lib.hid hr41; have HF_41 : Hid (Below w.heap.size w y41) := Lib.hid (HF_40.out.grown hg41 HF_40.out.size (fun r hr => by injection hr with hr; have := HGE38.out; omega)); clear hr41 hg41 hz41 Ngp_40 Ngr_40 HF_40)) | fail)
  go_wp2_with fail
  obtain ⟨tr, htr⟩ := Ngr_41.out
  refine bodyPost_ret (results_cell_row rfl _ _ gr tr (bcs (encs [0, 1])).toArray _ _ rfl htr Try.underlying35 rfl (by rw [List.size_toArray, bcs_len, encs_len]; exact size35)) rfl ?_
  exact ⟨rfl, HF_41.out⟩
end Go.Proofs.Ytgdimnbdnepbgaa
