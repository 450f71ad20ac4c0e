/- Points: out of extended coordinates. No statement is proved here. -/
import Derived.Test.YtgdimnbdnepbgaaEB
namespace Go.Proofs.Ytgdimnbdnepbgaa
open Go.RowKit
set_option linter.unusedVariables false
set_option maxRecDepth 40000
set_option linter.unusedSimpArgs false

set_option maxHeartbeats 8000000 in
theorem epoint_core (g x y z t i X Y : Nat) (w : World)
    (C0 : Hid (∀ w, Calls Try.prog 29 #[vN z] w (Gives (vN i) w)))
    (C1 : Hid (∀ w, Calls Try.prog 25 #[vN x, vN i] w (Gives (vN X) w)))
    (C2 : Hid (∀ w, Calls Try.prog 25 #[vN y, vN i] w (Gives (vN Y) w)))
    (RG_0 : Hid (RAt w g [x, y, z, t])) :
    Calls Try.prog 82 #[.pointer (some ⟨g, 0, none⟩)] w (Gives (vR [X, Y]) w) := by
  have HF_0 : Hid (Below w.heap.size w w) := Lib.hid (Below.refl _ _)
  go_enter Try.func82, Try.ntmps82
  go_wp2_with (first | ((with_reducible show wpList _ _ _ (⟨some 2, .alloc 35, _, _, _, _⟩ :: _) _ _); go_must (refine wpList_alloc_row rfl 35 rfl (.agg (zbs 64)) zero35 ?_; intro u1 ha1 hza1 hga1; have RG_1 := Lib.hid (RG_0.out.grown hga1 (by simp)); have Ngr_1 : Hid (RAt u1 w.heap.size [0, 0]) := Lib.hid (zrow (k := 2) ha1); have HF_1 : Hid (Below w.heap.size w u1) := Lib.hid (HF_0.out.grown hga1 HF_0.out.size (by simp)); have HNE1_0 : Hid (g ≠ w.heap.size) := Lib.hid (by have := RG_0.out.lt; omega); have HGE1 : Hid (w.heap.size ≤ w.heap.size) := Lib.hid HF_0.out.size; clear ha1 hza1 hga1 RG_0 HF_0)) | ((with_reducible show wpList _ _ _ (⟨_, .load 23 (.tmp 6), _, _, _, _⟩ :: _) _ _); go_must (refine wpList_exec rfl (vN z) (exec_loadF (.tmp 6) rfl (g) 2 64 rfl [x, y, z, t] z rfl RG_1.out rfl) ?_)) | fail)
  refine (C0.out _).mono ?_
  rintro e2 x2 ⟨rfl, hb2⟩
  have RG_2 := Lib.hid (RG_1.out.keep hb2)
  have Ngr_2 := Lib.hid (Ngr_1.out.keep hb2)
  have HF_2 : Hid (Below w.heap.size w x2) := Lib.hid (HF_1.out.trans (hb2.mono HF_1.out.size))
  clear hb2 RG_1 Ngr_1 HF_1
  go_wp2_with (first | ((with_reducible show wpList _ _ _ (⟨some 3, .alloc 23, _, _, _, _⟩ :: _) _ _); go_must (refine wpList_alloc_row rfl 23 rfl (.agg (zbs 32)) zero23 ?_; intro u3 ha3 hza3 hga3; have HA3 := Lib.hid ha3; have HZA3 := Lib.hid hza3; have HGA3 := Lib.hid hga3; clear ha3 hza3 hga3)) | ((with_reducible show wpList _ _ _ (⟨none, .store 23 (.tmp 3) (.tmp 8), _, _, _, _⟩ :: _) _ _); go_must (refine wpList_storeF rfl (.tmp 3) (.tmp 8) rfl (x2.heap.size) 0 0 rfl [0] i rfl rfl (zrow (k := 1) HA3.out) (show 0 < 1 by omega) ?_; intro y3 hr3 hg3 hz3; have RG_3 := Lib.hid ((RG_2.out.grown HGA3.out (by simp)).grown hg3 (by have := RG_2.out.lt; simp; omega)); have Ngr_3 := Lib.hid ((Ngr_2.out.grown HGA3.out (by simp)).grown hg3 (by have := Ngr_2.out.lt; simp; omega)); have Ng3_3 : Hid (RAt y3 x2.heap.size [i]) := Lib.hid hr3; have HF_3 : Hid (Below w.heap.size w y3) := Lib.hid ((HF_2.out.grown HGA3.out HF_2.out.size (by simp)).grown hg3 (by have := HF_2.out.size; have := HZA3.out; omega) (fun r hr => by injection hr with hr; have := HF_2.out.size; omega)); have HNE3_1 : Hid (g ≠ x2.heap.size) := Lib.hid (by have := RG_2.out.lt; omega); have HNE3_2 : Hid (w.heap.size ≠ x2.heap.size) := Lib.hid (by have := Ngr_2.out.lt; omega); have HGE3 : Hid (w.heap.size ≤ x2.heap.size) := Lib.hid HF_2.out.size; clear hr3 hg3 hz3 HA3 HZA3 HGA3 RG_2 Ngr_2 HF_2)) | fail)
  generalize x2.heap.size = g3 at *
  have HLT4_0 : Hid (g < y3.heap.size) := Lib.hid RG_3.out.lt
  have HLT4_1 : Hid (w.heap.size < y3.heap.size) := Lib.hid Ngr_3.out.lt
  have HLT4_2 : Hid (g3 < y3.heap.size) := Lib.hid Ng3_3.out.lt
  have HLO4 : Hid (w.heap.size ≤ y3.heap.size) := Lib.hid HF_3.out.size
  refine region_split (fun a' W => RAt W g [x, y, z, t] ∧ RAt W w.heap.size [X, Y] ∧ RAt W g3 [i] ∧ Below w.heap.size w W ∧ a' = ⟨#[.pointer (some ⟨g, 0, none⟩), undef, .pointer (some ⟨w.heap.size, 0, none⟩), .pointer (some ⟨g3, 0, none⟩), .pointer (some ⟨g, 0, none⟩), .pointer (some ⟨g, 0, none⟩), .pointer (some ⟨g, 64, none⟩), vN z, vN i, .pointer (some ⟨g, 0, none⟩), .pointer (some ⟨g, 0, none⟩), .pointer (some ⟨g, 0, none⟩), vN x, vN i, vN X, .pointer (some ⟨g, 0, none⟩), .pointer (some ⟨g, 0, none⟩), .pointer (some ⟨g, 32, none⟩), vN y, vN i, vN Y, vR [X, Y]], []⟩) ?_ ?_
  · refine startW (fun j => j == 13) (y3.heap.size) (by kernel_rfl) ?_
    obtain ⟨D4, hD4⟩ : ∃ D, D = y3.drew := ⟨_, rfl⟩
    rw [← hD4]
    have HL_4 : Hid (y3.heap.size ≤ D4.heap.size) := Lib.hid (by rw [hD4]; exact Nat.le_refl _)
    have RG_4 : Hid (RAt D4 g [x, y, z, t]) := Lib.hid (by rw [hD4]; exact RG_3.out)
    have Ngr_4 : Hid (RAt D4 w.heap.size [0, 0]) := Lib.hid (by rw [hD4]; exact Ngr_3.out)
    have Ng3_4 : Hid (RAt D4 g3 [i]) := Lib.hid (by rw [hD4]; exact Ng3_3.out)
    have HF_4 : Hid (Below w.heap.size w D4) := Lib.hid (by rw [hD4]; exact below_drewN' HF_3.out 1)
    clear hD4 RG_3 Ngr_3 Ng3_3 HF_3
    refine takeAE (i := 0) (oi := { dst := some 9, op := Op.move (Operand.tmp 0), type := 80, pos := "extended.go:23", after := #[], guard := none }) rfl (by kernel_rfl) (by kernel_rfl) (by kernel_rfl) (fun _ _ _ _ h => nomatch h.1) (by rfl) ?_
    refine ⟨.pointer (some ⟨g, 0, none⟩), fun w' => exec_move (.tmp 0) rfl _ rfl, ?_⟩
    simp only [Act.put, List.setIfInBounds_toArray, List.set_cons_zero, List.set_cons_succ]
    refine takeAE (i := 1) (oi := { dst := some 10, op := Op.nilCheck (Operand.tmp 9), type := 0, pos := "extended.go:23", after := #[{ on := 0, ground := Ground.data }], guard := none }) rfl (by kernel_rfl) (by kernel_rfl) (by kernel_rfl) (fun _ _ _ _ h => nomatch h.1) (by rfl) ?_
    refine ⟨.pointer (some ⟨g, 0, none⟩), fun w' => exec_nil (.tmp 9) rfl _ rfl, ?_⟩
    simp only [Act.put, List.setIfInBounds_toArray, List.set_cons_zero, List.set_cons_succ]
    refine takeAE (i := 2) (oi := { dst := some 11, op := Op.fieldAddr 76 (Operand.tmp 10) 0, type := 0, pos := "extended.go:23", after := #[{ on := 1, ground := Ground.data }], guard := none }) rfl (by kernel_rfl) (by kernel_rfl) (by kernel_rfl) (fun _ _ _ _ h => nomatch h.1) (by rfl) ?_
    refine ⟨.pointer (some ⟨g, 0, none⟩), fun w' => exec_field 76 (.tmp 10) 0 rfl _ 0 rfl (fld76_0 _), ?_⟩
    simp only [Act.put, List.setIfInBounds_toArray, List.set_cons_zero, List.set_cons_succ]
    refine takeT (i := 3) (oi := { dst := some 12, op := Op.load 23 (Operand.tmp 11), type := 23, pos := "extended.go:23", after := #[{ on := 2, ground := Ground.data }], guard := none }) (vN x) rfl (by kernel_rfl) (by kernel_rfl) (by kernel_rfl) (by kernel_rfl) (by kernel_rfl) (fun _ _ _ h => nomatch h.1) (by rfl) (fun w' hk => exec_loadF (.tmp 11) rfl (g) 0 0 rfl [x, y, z, t] x rfl (RG_4.out.below hk HLT4_0.out) rfl) ?_
    simp only [Act.put, List.setIfInBounds_toArray, List.set_cons_zero, List.set_cons_succ]
    refine takeT (i := 4) (oi := { dst := some 13, op := Op.load 23 (Operand.tmp 3), type := 23, pos := "extended.go:23", after := #[], guard := none }) (vN i) rfl (by kernel_rfl) (by kernel_rfl) (by kernel_rfl) (by kernel_rfl) (by kernel_rfl) (fun _ _ _ h => nomatch h.1) (by rfl) (fun w' hk => exec_loadF (.tmp 3) rfl (g3) 0 0 rfl [i] i rfl (Ng3_4.out.below hk HLT4_2.out) rfl) ?_
    simp only [Act.put, List.setIfInBounds_toArray, List.set_cons_zero, List.set_cons_succ]
    refine takeAE (i := 6) (oi := { dst := some 15, op := Op.move (Operand.tmp 0), type := 80, pos := "extended.go:23", after := #[], guard := none }) rfl (by kernel_rfl) (by kernel_rfl) (by kernel_rfl) (fun _ _ _ _ h => nomatch h.1) (by rfl) ?_
    refine ⟨.pointer (some ⟨g, 0, none⟩), fun w' => exec_move (.tmp 0) rfl _ rfl, ?_⟩
    simp only [Act.put, List.setIfInBounds_toArray, List.set_cons_zero, List.set_cons_succ]
    refine takeAE (i := 7) (oi := { dst := some 16, op := Op.nilCheck (Operand.tmp 15), type := 0, pos := "extended.go:23", after := #[{ on := 6, ground := Ground.data }], guard := none }) rfl (by kernel_rfl) (by kernel_rfl) (by kernel_rfl) (fun _ _ _ _ h => nomatch h.1) (by rfl) ?_
    refine ⟨.pointer (some ⟨g, 0, none⟩), fun w' => exec_nil (.tmp 15) rfl _ rfl, ?_⟩
    simp only [Act.put, List.setIfInBounds_toArray, List.set_cons_zero, List.set_cons_succ]
    refine takeAE (i := 8) (oi := { dst := some 17, op := Op.fieldAddr 76 (Operand.tmp 16) 1, type := 0, pos := "extended.go:23", after := #[{ on := 7, ground := Ground.data }], guard := none }) rfl (by kernel_rfl) (by kernel_rfl) (by kernel_rfl) (fun _ _ _ _ h => nomatch h.1) (by rfl) ?_
    refine ⟨.pointer (some ⟨g, 32, none⟩), fun w' => exec_field 76 (.tmp 16) 1 rfl _ 32 rfl (fld76_1 _), ?_⟩
    simp only [Act.put, List.setIfInBounds_toArray, List.set_cons_zero, List.set_cons_succ]
    refine takeT (i := 9) (oi := { dst := some 18, op := Op.load 23 (Operand.tmp 17), type := 23, pos := "extended.go:23", after := #[{ on := 8, ground := Ground.data }], guard := none }) (vN y) rfl (by kernel_rfl) (by kernel_rfl) (by kernel_rfl) (by kernel_rfl) (by kernel_rfl) (fun _ _ _ h => nomatch h.1) (by rfl) (fun w' hk => exec_loadF (.tmp 17) rfl (g) 1 32 rfl [x, y, z, t] y rfl (RG_4.out.below hk HLT4_0.out) rfl) ?_
    simp only [Act.put, List.setIfInBounds_toArray, List.set_cons_zero, List.set_cons_succ]
    refine takeT (i := 10) (oi := { dst := some 19, op := Op.load 23 (Operand.tmp 3), type := 23, pos := "extended.go:23", after := #[], guard := none }) (vN i) rfl (by kernel_rfl) (by kernel_rfl) (by kernel_rfl) (by kernel_rfl) (by kernel_rfl) (fun _ _ _ h => nomatch h.1) (by rfl) (fun w' hk => exec_loadF (.tmp 3) rfl (g3) 0 0 rfl [i] i rfl (Ng3_4.out.below hk HLT4_2.out) rfl) ?_
    simp only [Act.put, List.setIfInBounds_toArray, List.set_cons_zero, List.set_cons_succ]
    refine callW (i := 5) (oi := { dst := some 14, op := Op.call { callee := Callee.value (Operand.func 25), args := #[Operand.tmp 12, Operand.tmp 13], argTypes := #[23, 23] }, type := 23, pos := "extended.go:23", after := #[{ on := 3, ground := Ground.data }, { on := 4, ground := Ground.data }], guard := none }) rfl (by kernel_rfl) (by rfl) (exec_callL 25 [.tmp 12, .tmp 13] #[23, 23] rfl [vN x, vN i] rfl (CG25 _)) ((C1.out D4).mono ?_)
    rintro e5 W5 ⟨rfl, hb5⟩
    refine ⟨_, rfl, fun _ => hb5.mono HL_4.out, ?_⟩
    have RG_5 := Lib.hid (RG_4.out.keep hb5)
    have Ngr_5 := Lib.hid (Ngr_4.out.keep hb5)
    have Ng3_5 := Lib.hid (Ng3_4.out.keep hb5)
    have HF_5 : Hid (Below w.heap.size w W5) := Lib.hid (HF_4.out.trans (hb5.mono HF_4.out.size))
    have HL_5 : Hid (y3.heap.size ≤ W5.heap.size) := Lib.hid (Nat.le_trans HL_4.out hb5.size)
    clear hb5 HL_4 RG_4 Ngr_4 Ng3_4 HF_4
    simp only [Act.put, List.setIfInBounds_toArray, List.set_cons_zero, List.set_cons_succ]
    refine callW (i := 11) (oi := { dst := some 20, op := Op.call { callee := Callee.value (Operand.func 25), args := #[Operand.tmp 18, Operand.tmp 19], argTypes := #[23, 23] }, type := 23, pos := "extended.go:23", after := #[{ on := 9, ground := Ground.data }, { on := 10, ground := Ground.data }, { on := 5, ground := Ground.chain }], guard := none }) rfl (by kernel_rfl) (by rfl) (exec_callL 25 [.tmp 18, .tmp 19] #[23, 23] rfl [vN y, vN i] rfl (CG25 _)) ((C2.out W5).mono ?_)
    rintro e6 W6 ⟨rfl, hb6⟩
    refine ⟨_, rfl, fun _ => hb6.mono HL_5.out, ?_⟩
    have RG_6 := Lib.hid (RG_5.out.keep hb6)
    have Ngr_6 := Lib.hid (Ngr_5.out.keep hb6)
    have Ng3_6 := Lib.hid (Ng3_5.out.keep hb6)
    have HF_6 : Hid (Below w.heap.size w W6) := Lib.hid (HF_5.out.trans (hb6.mono HF_5.out.size))
    have HL_6 : Hid (y3.heap.size ≤ W6.heap.size) := Lib.hid (Nat.le_trans HL_5.out hb6.size)
    clear hb6 HL_5 RG_5 Ngr_5 Ng3_5 HF_5
    simp only [Act.put, List.setIfInBounds_toArray, List.set_cons_zero, List.set_cons_succ]
    refine takeAE (i := 12) (oi := { dst := some 21, op := Op.build 35 #[(0, Operand.tmp 14), (1, Operand.tmp 20)], type := 35, pos := "extended.go:23", after := #[{ on := 5, ground := Ground.data }, { on := 11, ground := Ground.data }], guard := none }) rfl (by kernel_rfl) (by kernel_rfl) (by kernel_rfl) (fun _ _ _ _ h => nomatch h.1) (by rfl) ?_
    refine ⟨vR [X, Y], fun w' => exec_build35 (.tmp 14) (.tmp 20) X Y rfl rfl rfl, ?_⟩
    simp only [Act.put, List.setIfInBounds_toArray, List.set_cons_zero, List.set_cons_succ]
    refine storeW_P (i := 13) (oi := { dst := none, op := Op.store 35 (Operand.tmp 2) (Operand.tmp 21), type := 0, pos := "extended.go:23", after := #[{ on := 12, ground := Ground.data }, { on := 11, ground := Ground.chain }, { on := 0, ground := Ground.phase }, { on := 1, ground := Ground.phase }, { on := 2, ground := Ground.phase }, { on := 3, ground := Ground.phase }, { on := 4, ground := Ground.phase }, { on := 5, ground := Ground.phase }, { on := 6, ground := Ground.phase }, { on := 7, ground := Ground.phase }, { on := 8, ground := Ground.phase }, { on := 9, ground := Ground.phase }, { on := 10, ground := Ground.phase }, { on := 11, ground := Ground.phase }, { on := 12, ground := Ground.phase }], guard := none }) rfl (by kernel_rfl) (by rfl) (.tmp 2) (.tmp 21) rfl (w.heap.size) [0, 0] X Y rfl rfl Ngr_6.out rfl rfl ?_
    intro W7 hr7 hg7 hz7
    simp only [Act.put, List.setIfInBounds_toArray, List.set_cons_zero, List.set_cons_succ]
    have RG_7 := Lib.hid (RG_6.out.grown hg7 (by have := HNE1_0.out; simp; omega))
    have Ngr_7 : Hid (RAt W7 w.heap.size [X, Y]) := Lib.hid hr7
    have Ng3_7 := Lib.hid (Ng3_6.out.grown hg7 (by have := HNE3_2.out; simp; omega))
    have HF_7 : Hid (Below w.heap.size w W7) := Lib.hid (HF_6.out.grown hg7 HF_6.out.size (fun r hr => by injection hr with hr; have := HGE1.out; omega))
    have HL_7 : Hid (y3.heap.size ≤ W7.heap.size) := Lib.hid (Nat.le_trans HL_6.out hg7.size)
    clear hr7 hg7 hz7 HL_6 RG_6 Ngr_6 Ng3_6 HF_6
    refine doneW (by kernel_rfl) ⟨rfl, ?_⟩ _
    exact ⟨RG_7.out, Ngr_7.out, Ng3_7.out, HF_7.out, rfl⟩
  rintro a' v8 ⟨h0, h1, h2, hF, rfl⟩
  have RG_8 := Lib.hid h0
  have Ngr_8 := Lib.hid h1
  have Ng3_8 := Lib.hid h2
  have HF_8 := Lib.hid hF
  clear h0 h1 h2 hF HLT4_0 HLT4_1 HLT4_2 HLO4 RG_3 Ngr_3 Ng3_3 HF_3
  go_wp2_with fail
  obtain ⟨tr, htr⟩ := Ngr_8.out
  refine bodyPost_ret (results_cell_row rfl _ _ w.heap.size tr (bcs (encs [X, Y])).toArray _ _ rfl htr Try.underlying35 rfl (by rw [List.size_toArray, bcs_len, encs_len]; exact size35)) rfl ?_
  exact ⟨rfl, HF_8.out⟩
end Go.Proofs.Ytgdimnbdnepbgaa
