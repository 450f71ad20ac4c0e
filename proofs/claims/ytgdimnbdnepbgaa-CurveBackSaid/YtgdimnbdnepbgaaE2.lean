/- Several texts in one. No statement is proved here. -/
import Derived.Test.YtgdimnbdnepbgaaE1
/- Points in extended coordinates: add. No statement is proved here. -/
namespace Go.Proofs.Ytgdimnbdnepbgaa
open Go.RowKit
set_option linter.unusedVariables false
set_option maxRecDepth 40000
set_option linter.unusedSimpArgs false

set_option maxHeartbeats 8000000 in
theorem eadd_core (g gp gq r0 r1 r2 r3 x1 y1 z1 t1 x2 y2 z2 t2 one dd tt d a1 a2 x b1 b2 y ox oy X Y Z T : Nat) (w : World)
    (C0 : Hid (∀ w, Calls Try.prog 25 #[vN z1, vN z2] w (Gives (vN one) w)))
    (C1 : Hid (∀ w, Calls Try.prog 45 #[] w (Gives (vN dd) w)))
    (C2 : Hid (∀ w, Calls Try.prog 25 #[vN t1, vN t2] w (Gives (vN tt) w)))
    (C3 : Hid (∀ w, Calls Try.prog 25 #[vN dd, vN tt] w (Gives (vN d) w)))
    (C4 : Hid (∀ w, Calls Try.prog 25 #[vN x1, vN y2] w (Gives (vN a1) w)))
    (C5 : Hid (∀ w, Calls Try.prog 25 #[vN y1, vN x2] w (Gives (vN a2) w)))
    (C6 : Hid (∀ w, Calls Try.prog 19 #[vN a1, vN a2] w (Gives (vN x) w)))
    (C7 : Hid (∀ w, Calls Try.prog 25 #[vN y1, vN y2] w (Gives (vN b1) w)))
    (C8 : Hid (∀ w, Calls Try.prog 25 #[vN x1, vN x2] w (Gives (vN b2) w)))
    (C9 : Hid (∀ w, Calls Try.prog 19 #[vN b1, vN b2] w (Gives (vN y) w)))
    (C10 : Hid (∀ w, Calls Try.prog 19 #[vN one, vN d] w (Gives (vN ox) w)))
    (C11 : Hid (∀ w, Calls Try.prog 21 #[vN one, vN d] w (Gives (vN oy) w)))
    (HD : Hid (∀ (w : World) (g1 g2 g3 g4 : Nat), RAt w g [r0, r1, r2, r3] → RAt w g1 [x] → RAt w g2 [ox] → RAt w g3 [y] → RAt w g4 [oy] → g ≠ g1 → g ≠ g2 → g ≠ g3 → g ≠ g4 → Calls Try.prog 100 #[.pointer (some ⟨g, 0, none⟩), .pointer (some ⟨g1, 0, none⟩), .pointer (some ⟨g2, 0, none⟩), .pointer (some ⟨g3, 0, none⟩), .pointer (some ⟨g4, 0, none⟩)] w (SetsR g [X, Y, Z, T] w)))
    (RG_0 : Hid (RAt w g [r0, r1, r2, r3])) (RX_0 : Hid (RAt w gp [x1, y1, z1, t1])) (RY_0 : Hid (RAt w gq [x2, y2, z2, t2])) :
    Calls Try.prog 81 #[.pointer (some ⟨g, 0, none⟩), .pointer (some ⟨gp, 0, none⟩), .pointer (some ⟨gq, 0, none⟩)] w (SetsR g [X, Y, Z, T] w) := by
  have HF_0 : Hid (Keeps (· = g) w w) := Lib.hid (Keeps.refl _ _)
  go_enter Try.func81, Try.ntmps81
  go_wp2_with fail
  have HLT27_0 : Hid (g < w.heap.size) := Lib.hid RG_0.out.lt
  have HLT27_1 : Hid (gp < w.heap.size) := Lib.hid RX_0.out.lt
  have HLT27_2 : Hid (gq < w.heap.size) := Lib.hid RY_0.out.lt
  have HLO27 : Hid (w.heap.size ≤ w.heap.size) := Lib.hid HF_0.out.size
  refine region_split (fun a' W => ∃ a27_0, RAt W g [r0, r1, r2, r3] ∧ RAt W gp [x1, y1, z1, t1] ∧ RAt W gq [x2, y2, z2, t2] ∧ RAt W a27_0 [one] ∧ w.heap.size ≤ a27_0 ∧ Keeps (· = g) w W ∧ a' = ⟨#[.pointer (some ⟨g, 0, none⟩), .pointer (some ⟨gp, 0, none⟩), .pointer (some ⟨gq, 0, none⟩), undef, undef, undef, .pointer (some ⟨a27_0, 0, none⟩), undef, undef, undef, undef, undef, .pointer (some ⟨gp, 0, none⟩), .pointer (some ⟨gp, 0, none⟩), .pointer (some ⟨gp, 64, none⟩), vN z1, .pointer (some ⟨gq, 0, none⟩), .pointer (some ⟨gq, 0, none⟩), .pointer (some ⟨gq, 64, none⟩), vN z2, vN one, undef, undef, undef, undef, undef, undef, undef, undef, undef, undef, undef, undef, undef, undef, undef, undef, undef, undef, undef, undef, undef, undef, undef, undef, undef, undef, undef, undef, undef, undef, undef, undef, undef, undef, undef, undef, undef, undef, undef, undef, undef, undef, undef, undef, undef, undef, undef, undef, undef, undef, undef, undef, undef, undef, undef, undef, undef], []⟩) ?_ ?_
  · refine startW (fun j => j == 10) (w.heap.size) (by kernel_rfl) ?_
    obtain ⟨D27, hD27⟩ : ∃ D, D = w.drew := ⟨_, rfl⟩
    rw [← hD27]
    have HL_27 : Hid (w.heap.size ≤ D27.heap.size) := Lib.hid (by rw [hD27]; exact Nat.le_refl _)
    have RG_27 : Hid (RAt D27 g [r0, r1, r2, r3]) := Lib.hid (by rw [hD27]; exact RG_0.out)
    have RX_27 : Hid (RAt D27 gp [x1, y1, z1, t1]) := Lib.hid (by rw [hD27]; exact RX_0.out)
    have RY_27 : Hid (RAt D27 gq [x2, y2, z2, t2]) := Lib.hid (by rw [hD27]; exact RY_0.out)
    have HF_27 : Hid (Keeps (· = g) w D27) := Lib.hid (by rw [hD27]; exact drew_rel HF_0.out)
    clear hD27 RG_0 RX_0 RY_0 HF_0
    refine takeAE (i := 0) (oi := { dst := some 12, op := Op.move (Operand.tmp 1), type := 80, pos := "extended.go:29", after := #[], guard := none }) rfl (by kernel_rfl) (by kernel_rfl) (by kernel_rfl) (fun _ _ _ _ h => nomatch h.1) (by rfl) ?_
    refine ⟨.pointer (some ⟨gp, 0, none⟩), fun w' => exec_move (.tmp 1) rfl _ rfl, ?_⟩
    simp only [Act.put, List.setIfInBounds_toArray, List.set_cons_zero, List.set_cons_succ]
    refine takeAE (i := 1) (oi := { dst := some 13, op := Op.nilCheck (Operand.tmp 12), type := 0, pos := "extended.go:29", after := #[{ on := 0, ground := Ground.data }], guard := none }) rfl (by kernel_rfl) (by kernel_rfl) (by kernel_rfl) (fun _ _ _ _ h => nomatch h.1) (by rfl) ?_
    refine ⟨.pointer (some ⟨gp, 0, none⟩), fun w' => exec_nil (.tmp 12) rfl _ rfl, ?_⟩
    simp only [Act.put, List.setIfInBounds_toArray, List.set_cons_zero, List.set_cons_succ]
    refine takeAE (i := 2) (oi := { dst := some 14, op := Op.fieldAddr 76 (Operand.tmp 13) 2, type := 0, pos := "extended.go:29", after := #[{ on := 1, ground := Ground.data }], guard := none }) rfl (by kernel_rfl) (by kernel_rfl) (by kernel_rfl) (fun _ _ _ _ h => nomatch h.1) (by rfl) ?_
    refine ⟨.pointer (some ⟨gp, 64, none⟩), fun w' => exec_field 76 (.tmp 13) 2 rfl _ 64 rfl (fld76_2 _), ?_⟩
    simp only [Act.put, List.setIfInBounds_toArray, List.set_cons_zero, List.set_cons_succ]
    refine takeT (i := 3) (oi := { dst := some 15, op := Op.load 23 (Operand.tmp 14), type := 23, pos := "extended.go:29", after := #[{ on := 2, ground := Ground.data }], guard := none }) (vN z1) rfl (by kernel_rfl) (by kernel_rfl) (by kernel_rfl) (by kernel_rfl) (by kernel_rfl) (fun _ _ _ h => nomatch h.1) (by rfl) (fun w' hk => exec_loadF (.tmp 14) rfl (gp) 2 64 rfl [x1, y1, z1, t1] z1 rfl (RX_27.out.below hk HLT27_1.out) rfl) ?_
    simp only [Act.put, List.setIfInBounds_toArray, List.set_cons_zero, List.set_cons_succ]
    refine takeAE (i := 4) (oi := { dst := some 16, op := Op.move (Operand.tmp 2), type := 80, pos := "extended.go:29", after := #[], guard := none }) rfl (by kernel_rfl) (by kernel_rfl) (by kernel_rfl) (fun _ _ _ _ h => nomatch h.1) (by rfl) ?_
    refine ⟨.pointer (some ⟨gq, 0, none⟩), fun w' => exec_move (.tmp 2) rfl _ rfl, ?_⟩
    simp only [Act.put, List.setIfInBounds_toArray, List.set_cons_zero, List.set_cons_succ]
    refine takeAE (i := 5) (oi := { dst := some 17, op := Op.nilCheck (Operand.tmp 16), type := 0, pos := "extended.go:29", after := #[{ on := 4, ground := Ground.data }], guard := none }) rfl (by kernel_rfl) (by kernel_rfl) (by kernel_rfl) (fun _ _ _ _ h => nomatch h.1) (by rfl) ?_
    refine ⟨.pointer (some ⟨gq, 0, none⟩), fun w' => exec_nil (.tmp 16) rfl _ rfl, ?_⟩
    simp only [Act.put, List.setIfInBounds_toArray, List.set_cons_zero, List.set_cons_succ]
    refine takeAE (i := 6) (oi := { dst := some 18, op := Op.fieldAddr 76 (Operand.tmp 17) 2, type := 0, pos := "extended.go:29", after := #[{ on := 5, ground := Ground.data }], guard := none }) rfl (by kernel_rfl) (by kernel_rfl) (by kernel_rfl) (fun _ _ _ _ h => nomatch h.1) (by rfl) ?_
    refine ⟨.pointer (some ⟨gq, 64, none⟩), fun w' => exec_field 76 (.tmp 17) 2 rfl _ 64 rfl (fld76_2 _), ?_⟩
    simp only [Act.put, List.setIfInBounds_toArray, List.set_cons_zero, List.set_cons_succ]
    refine takeT (i := 7) (oi := { dst := some 19, op := Op.load 23 (Operand.tmp 18), type := 23, pos := "extended.go:29", after := #[{ on := 6, ground := Ground.data }], guard := none }) (vN z2) rfl (by kernel_rfl) (by kernel_rfl) (by kernel_rfl) (by kernel_rfl) (by kernel_rfl) (fun _ _ _ h => nomatch h.1) (by rfl) (fun w' hk => exec_loadF (.tmp 18) rfl (gq) 2 64 rfl [x2, y2, z2, t2] z2 rfl (RY_27.out.below hk HLT27_2.out) rfl) ?_
    simp only [Act.put, List.setIfInBounds_toArray, List.set_cons_zero, List.set_cons_succ]
    refine eachW [8, 9] (by kernel_rfl) (by simp) ?_
    intro k hk
    simp only [List.mem_cons, List.not_mem_nil, or_false] at hk
    rcases hk with rfl | rfl
    · refine wpOp_call (i := 8) (oi := { dst := some 20, op := Op.call { callee := Callee.value (Operand.func 25), args := #[Operand.tmp 15, Operand.tmp 19], argTypes := #[23, 23] }, type := 23, pos := "extended.go:29", after := #[{ on := 3, ground := Ground.data }, { on := 7, ground := Ground.data }], guard := none }) rfl (by rfl) (exec_callL 25 [.tmp 15, .tmp 19] #[23, 23] rfl [vN z1, vN z2] rfl (CG25 _)) ((C0.out D27).mono ?_)
      rintro e28 W28 ⟨rfl, hb28⟩
      refine ⟨_, rfl, fun _ => hb28.mono HL_27.out, ?_⟩
      have RG_28 := Lib.hid (RG_27.out.keep hb28)
      have RX_28 := Lib.hid (RX_27.out.keep hb28)
      have RY_28 := Lib.hid (RY_27.out.keep hb28)
      have HF_28 : Hid (Keeps (· = g) w W28) := Lib.hid (HF_27.out.call hb28)
      have HL_28 : Hid (w.heap.size ≤ W28.heap.size) := Lib.hid (Nat.le_trans HL_27.out hb28.size)
      clear hb28 HL_27 RG_27 RX_27 RY_27 HF_27
      simp only [Act.put, List.setIfInBounds_toArray, List.set_cons_zero, List.set_cons_succ]
      refine opW _ _ (i := 9) (oi := { dst := some 6, op := Op.alloc 23, type := 0, pos := "extended.go:29", after := #[], guard := none }) rfl (by kernel_rfl) (by rfl) (exec_alloc 23 rfl (.agg (zbs 32)) zero23 W28) (fun _ => (below_alloc W28 _).mono HL_28.out) ?_
      obtain ⟨W29, hW29, hb29, hz29⟩ := alloc_zero W28
      rw [← hW29]
      obtain ⟨g29, hg29⟩ : ∃ g, g = W28.heap.size := ⟨_, rfl⟩
      rw [← hg29] at hz29 ⊢
      have HG29 : Hid (w.heap.size ≤ g29) := Lib.hid (by rw [hg29]; exact HL_28.out)
      have HX29_0 : Hid (g ≠ g29) := Lib.hid (by have := RG_28.out.lt; omega)
      have HX29_1 : Hid (gp ≠ g29) := Lib.hid (by have := RX_28.out.lt; omega)
      have HX29_2 : Hid (gq ≠ g29) := Lib.hid (by have := RY_28.out.lt; omega)
      have RG_29 := Lib.hid (RG_28.out.keep hb29)
      have RX_29 := Lib.hid (RX_28.out.keep hb29)
      have RY_29 := Lib.hid (RY_28.out.keep hb29)
      have HF_29 : Hid (Keeps (· = g) w W29) := Lib.hid (HF_28.out.call hb29)
      have HL_29 : Hid (w.heap.size ≤ W29.heap.size) := Lib.hid (Nat.le_trans HL_28.out hb29.size)
      have RZ29_29 : Hid (RAt W29 g29 [0]) := Lib.hid (zrow (k := 1) hz29)
      clear hb29 hz29 hg29 hW29 HL_28 RG_28 RX_28 RY_28 HF_28
      simp only [Act.put, List.setIfInBounds_toArray, List.set_cons_zero, List.set_cons_succ]
      refine storeW_F (i := 10) (oi := { dst := none, op := Op.store 23 (Operand.tmp 6) (Operand.tmp 20), type := 0, pos := "extended.go:29", after := #[{ on := 9, ground := Ground.data }, { on := 8, ground := Ground.data }, { on := 8, ground := Ground.chain }, { on := 0, ground := Ground.phase }, { on := 1, ground := Ground.phase }, { on := 2, ground := Ground.phase }, { on := 3, ground := Ground.phase }, { on := 4, ground := Ground.phase }, { on := 5, ground := Ground.phase }, { on := 6, ground := Ground.phase }, { on := 7, ground := Ground.phase }, { on := 8, ground := Ground.phase }, { on := 9, ground := Ground.phase }], guard := none }) rfl (by kernel_rfl) (by rfl) (.tmp 6) (.tmp 20) rfl (g29) 0 0 rfl [0] one rfl rfl RZ29_29.out (show 0 < 1 by omega) rfl ?_
      intro W30 hr30 hg30 hz30
      simp only [Act.put, List.setIfInBounds_toArray, List.set_cons_zero, List.set_cons_succ]
      have RG_30 := Lib.hid (RG_29.out.grown hg30 (by have := HX29_0.out; simp; omega))
      have RX_30 := Lib.hid (RX_29.out.grown hg30 (by have := HX29_1.out; simp; omega))
      have RY_30 := Lib.hid (RY_29.out.grown hg30 (by have := HX29_2.out; simp; omega))
      have RZ29_30 : Hid (RAt W30 g29 [one]) := Lib.hid hr30
      have HF_30 : Hid (Keeps (· = g) w W30) := Lib.hid (HF_29.out.newrow hg30 (show w.heap.size ≤ g29 from (by have := HG29.out; have := HLO27.out; omega)))
      have HL_30 : Hid (w.heap.size ≤ W30.heap.size) := Lib.hid (Nat.le_trans HL_29.out hg30.size)
      clear hr30 hg30 hz30 HL_29 RG_29 RX_29 RY_29 RZ29_29 HF_29
      refine doneW (by kernel_rfl) ⟨rfl, ?_⟩ _
      exact ⟨g29, RG_30.out, RX_30.out, RY_30.out, RZ29_30.out, HG29.out, HF_30.out, rfl⟩
    · refine wpOp_value (i := 9) (oi := { dst := some 6, op := Op.alloc 23, type := 0, pos := "extended.go:29", after := #[], guard := none }) rfl (by rfl) (exec_alloc 23 rfl (.agg (zbs 32)) zero23 D27) ⟨fun _ => (below_alloc D27 _).mono HL_27.out, ?_⟩
      obtain ⟨W31, hW31, hb31, hz31⟩ := alloc_zero D27
      rw [← hW31]
      obtain ⟨g31, hg31⟩ : ∃ g, g = D27.heap.size := ⟨_, rfl⟩
      rw [← hg31] at hz31 ⊢
      have HG31 : Hid (w.heap.size ≤ g31) := Lib.hid (by rw [hg31]; exact HL_27.out)
      have HX31_0 : Hid (g ≠ g31) := Lib.hid (by have := RG_27.out.lt; omega)
      have HX31_1 : Hid (gp ≠ g31) := Lib.hid (by have := RX_27.out.lt; omega)
      have HX31_2 : Hid (gq ≠ g31) := Lib.hid (by have := RY_27.out.lt; omega)
      have RG_31 := Lib.hid (RG_27.out.keep hb31)
      have RX_31 := Lib.hid (RX_27.out.keep hb31)
      have RY_31 := Lib.hid (RY_27.out.keep hb31)
      have HF_31 : Hid (Keeps (· = g) w W31) := Lib.hid (HF_27.out.call hb31)
      have HL_31 : Hid (w.heap.size ≤ W31.heap.size) := Lib.hid (Nat.le_trans HL_27.out hb31.size)
      have RZ31_31 : Hid (RAt W31 g31 [0]) := Lib.hid (zrow (k := 1) hz31)
      clear hb31 hz31 hg31 hW31 HL_27 RG_27 RX_27 RY_27 HF_27
      simp only [Act.put, List.setIfInBounds_toArray, List.set_cons_zero, List.set_cons_succ]
      refine callW (i := 8) (oi := { dst := some 20, op := Op.call { callee := Callee.value (Operand.func 25), args := #[Operand.tmp 15, Operand.tmp 19], argTypes := #[23, 23] }, type := 23, pos := "extended.go:29", after := #[{ on := 3, ground := Ground.data }, { on := 7, ground := Ground.data }], guard := none }) rfl (by kernel_rfl) (by rfl) (exec_callL 25 [.tmp 15, .tmp 19] #[23, 23] rfl [vN z1, vN z2] rfl (CG25 _)) ((C0.out W31).mono ?_)
      rintro e32 W32 ⟨rfl, hb32⟩
      refine ⟨_, rfl, fun _ => hb32.mono HL_31.out, ?_⟩
      have RG_32 := Lib.hid (RG_31.out.keep hb32)
      have RX_32 := Lib.hid (RX_31.out.keep hb32)
      have RY_32 := Lib.hid (RY_31.out.keep hb32)
      have RZ31_32 := Lib.hid (RZ31_31.out.keep hb32)
      have HF_32 : Hid (Keeps (· = g) w W32) := Lib.hid (HF_31.out.call hb32)
      have HL_32 : Hid (w.heap.size ≤ W32.heap.size) := Lib.hid (Nat.le_trans HL_31.out hb32.size)
      clear hb32 HL_31 RG_31 RX_31 RY_31 RZ31_31 HF_31
      simp only [Act.put, List.setIfInBounds_toArray, List.set_cons_zero, List.set_cons_succ]
      refine storeW_F (i := 10) (oi := { dst := none, op := Op.store 23 (Operand.tmp 6) (Operand.tmp 20), type := 0, pos := "extended.go:29", after := #[{ on := 9, ground := Ground.data }, { on := 8, ground := Ground.data }, { on := 8, ground := Ground.chain }, { on := 0, ground := Ground.phase }, { on := 1, ground := Ground.phase }, { on := 2, ground := Ground.phase }, { on := 3, ground := Ground.phase }, { on := 4, ground := Ground.phase }, { on := 5, ground := Ground.phase }, { on := 6, ground := Ground.phase }, { on := 7, ground := Ground.phase }, { on := 8, ground := Ground.phase }, { on := 9, ground := Ground.phase }], guard := none }) rfl (by kernel_rfl) (by rfl) (.tmp 6) (.tmp 20) rfl (g31) 0 0 rfl [0] one rfl rfl RZ31_32.out (show 0 < 1 by omega) rfl ?_
      intro W33 hr33 hg33 hz33
      simp only [Act.put, List.setIfInBounds_toArray, List.set_cons_zero, List.set_cons_succ]
      have RG_33 := Lib.hid (RG_32.out.grown hg33 (by have := HX31_0.out; simp; omega))
      have RX_33 := Lib.hid (RX_32.out.grown hg33 (by have := HX31_1.out; simp; omega))
      have RY_33 := Lib.hid (RY_32.out.grown hg33 (by have := HX31_2.out; simp; omega))
      have RZ31_33 : Hid (RAt W33 g31 [one]) := Lib.hid hr33
      have HF_33 : Hid (Keeps (· = g) w W33) := Lib.hid (HF_32.out.newrow hg33 (show w.heap.size ≤ g31 from (by have := HG31.out; have := HLO27.out; omega)))
      have HL_33 : Hid (w.heap.size ≤ W33.heap.size) := Lib.hid (Nat.le_trans HL_32.out hg33.size)
      clear hr33 hg33 hz33 HL_32 RG_32 RX_32 RY_32 RZ31_32 HF_32
      refine doneW (by kernel_rfl) ⟨rfl, ?_⟩ _
      exact ⟨g31, RG_33.out, RX_33.out, RY_33.out, RZ31_33.out, HG31.out, HF_33.out, rfl⟩
  rintro a' v34 ⟨a27_0, h0, h1, h2, h3, k0, hF, rfl⟩
  have RG_34 := Lib.hid h0
  have RX_34 := Lib.hid h1
  have RY_34 := Lib.hid h2
  have Na27_0_34 := Lib.hid h3
  have HNE34_0 : Hid (g ≠ a27_0) := Lib.hid (by have := HLT27_0.out; omega)
  have HNE34_1 : Hid (gp ≠ a27_0) := Lib.hid (by have := HLT27_1.out; omega)
  have HNE34_2 : Hid (gq ≠ a27_0) := Lib.hid (by have := HLT27_2.out; omega)
  have HGE34_0 : Hid (w.heap.size ≤ a27_0) := Lib.hid (by have := HLO27.out; omega)
  have HF_34 := Lib.hid hF
  clear h0 h1 h2 h3 k0 hF HLT27_0 HLT27_1 HLT27_2 HLO27 RG_0 RX_0 RY_0 HF_0
  go_wp2_with fail
  have HLT35_0 : Hid (g < v34.heap.size) := Lib.hid RG_34.out.lt
  have HLT35_1 : Hid (gp < v34.heap.size) := Lib.hid RX_34.out.lt
  have HLT35_2 : Hid (gq < v34.heap.size) := Lib.hid RY_34.out.lt
  have HLT35_3 : Hid (a27_0 < v34.heap.size) := Lib.hid Na27_0_34.out.lt
  have HLO35 : Hid (w.heap.size ≤ v34.heap.size) := Lib.hid HF_34.out.size
  refine region_split (fun a' W => ∃ a35_0, RAt W g [r0, r1, r2, r3] ∧ RAt W gp [x1, y1, z1, t1] ∧ RAt W gq [x2, y2, z2, t2] ∧ RAt W a27_0 [one] ∧ RAt W a35_0 [d] ∧ v34.heap.size ≤ a35_0 ∧ Keeps (· = g) w W ∧ a' = ⟨#[.pointer (some ⟨g, 0, none⟩), .pointer (some ⟨gp, 0, none⟩), .pointer (some ⟨gq, 0, none⟩), undef, undef, undef, .pointer (some ⟨a27_0, 0, none⟩), .pointer (some ⟨a35_0, 0, none⟩), undef, undef, undef, undef, .pointer (some ⟨gp, 0, none⟩), .pointer (some ⟨gp, 0, none⟩), .pointer (some ⟨gp, 64, none⟩), vN z1, .pointer (some ⟨gq, 0, none⟩), .pointer (some ⟨gq, 0, none⟩), .pointer (some ⟨gq, 64, none⟩), vN z2, vN one, vN dd, .pointer (some ⟨gp, 0, none⟩), .pointer (some ⟨gp, 0, none⟩), .pointer (some ⟨gp, 96, none⟩), vN t1, .pointer (some ⟨gq, 0, none⟩), .pointer (some ⟨gq, 0, none⟩), .pointer (some ⟨gq, 96, none⟩), vN t2, vN tt, vN d, undef, undef, undef, undef, undef, undef, undef, undef, undef, undef, undef, undef, undef, undef, undef, undef, undef, undef, undef, undef, undef, undef, undef, undef, undef, undef, undef, undef, undef, undef, undef, undef, undef, undef, undef, undef, undef, undef, undef, undef, undef, undef, undef, undef, undef, undef], []⟩) ?_ ?_
  · refine startW (fun j => j == 12) (v34.heap.size) (by kernel_rfl) ?_
    obtain ⟨D35, hD35⟩ : ∃ D, D = v34.drew := ⟨_, rfl⟩
    rw [← hD35]
    have HL_35 : Hid (v34.heap.size ≤ D35.heap.size) := Lib.hid (by rw [hD35]; exact Nat.le_refl _)
    have RG_35 : Hid (RAt D35 g [r0, r1, r2, r3]) := Lib.hid (by rw [hD35]; exact RG_34.out)
    have RX_35 : Hid (RAt D35 gp [x1, y1, z1, t1]) := Lib.hid (by rw [hD35]; exact RX_34.out)
    have RY_35 : Hid (RAt D35 gq [x2, y2, z2, t2]) := Lib.hid (by rw [hD35]; exact RY_34.out)
    have Na27_0_35 : Hid (RAt D35 a27_0 [one]) := Lib.hid (by rw [hD35]; exact Na27_0_34.out)
    have HF_35 : Hid (Keeps (· = g) w D35) := Lib.hid (by rw [hD35]; exact drew_rel HF_34.out)
    clear hD35 RG_34 RX_34 RY_34 Na27_0_34 HF_34
    refine takeAE (i := 1) (oi := { dst := some 22, op := Op.move (Operand.tmp 1), type := 80, pos := "extended.go:30", after := #[], guard := none }) rfl (by kernel_rfl) (by kernel_rfl) (by kernel_rfl) (fun _ _ _ _ h => nomatch h.1) (by rfl) ?_
    refine ⟨.pointer (some ⟨gp, 0, none⟩), fun w' => exec_move (.tmp 1) rfl _ rfl, ?_⟩
    simp only [Act.put, List.setIfInBounds_toArray, List.set_cons_zero, List.set_cons_succ]
    refine takeAE (i := 2) (oi := { dst := some 23, op := Op.nilCheck (Operand.tmp 22), type := 0, pos := "extended.go:30", after := #[{ on := 1, ground := Ground.data }], guard := none }) rfl (by kernel_rfl) (by kernel_rfl) (by kernel_rfl) (fun _ _ _ _ h => nomatch h.1) (by rfl) ?_
    refine ⟨.pointer (some ⟨gp, 0, none⟩), fun w' => exec_nil (.tmp 22) rfl _ rfl, ?_⟩
    simp only [Act.put, List.setIfInBounds_toArray, List.set_cons_zero, List.set_cons_succ]
    refine takeAE (i := 3) (oi := { dst := some 24, op := Op.fieldAddr 76 (Operand.tmp 23) 3, type := 0, pos := "extended.go:30", after := #[{ on := 2, ground := Ground.data }], guard := none }) rfl (by kernel_rfl) (by kernel_rfl) (by kernel_rfl) (fun _ _ _ _ h => nomatch h.1) (by rfl) ?_
    refine ⟨.pointer (some ⟨gp, 96, none⟩), fun w' => exec_field 76 (.tmp 23) 3 rfl _ 96 rfl (fld76_3 _), ?_⟩
    simp only [Act.put, List.setIfInBounds_toArray, List.set_cons_zero, List.set_cons_succ]
    refine takeT (i := 4) (oi := { dst := some 25, op := Op.load 23 (Operand.tmp 24), type := 23, pos := "extended.go:30", after := #[{ on := 3, ground := Ground.data }], guard := none }) (vN t1) rfl (by kernel_rfl) (by kernel_rfl) (by kernel_rfl) (by kernel_rfl) (by kernel_rfl) (fun _ _ _ h => nomatch h.1) (by rfl) (fun w' hk => exec_loadF (.tmp 24) rfl (gp) 3 96 rfl [x1, y1, z1, t1] t1 rfl (RX_35.out.below hk HLT35_1.out) rfl) ?_
    simp only [Act.put, List.setIfInBounds_toArray, List.set_cons_zero, List.set_cons_succ]
    refine takeAE (i := 5) (oi := { dst := some 26, op := Op.move (Operand.tmp 2), type := 80, pos := "extended.go:30", after := #[], guard := none }) rfl (by kernel_rfl) (by kernel_rfl) (by kernel_rfl) (fun _ _ _ _ h => nomatch h.1) (by rfl) ?_
    refine ⟨.pointer (some ⟨gq, 0, none⟩), fun w' => exec_move (.tmp 2) rfl _ rfl, ?_⟩
    simp only [Act.put, List.setIfInBounds_toArray, List.set_cons_zero, List.set_cons_succ]
    refine takeAE (i := 6) (oi := { dst := some 27, op := Op.nilCheck (Operand.tmp 26), type := 0, pos := "extended.go:30", after := #[{ on := 5, ground := Ground.data }], guard := none }) rfl (by kernel_rfl) (by kernel_rfl) (by kernel_rfl) (fun _ _ _ _ h => nomatch h.1) (by rfl) ?_
    refine ⟨.pointer (some ⟨gq, 0, none⟩), fun w' => exec_nil (.tmp 26) rfl _ rfl, ?_⟩
    simp only [Act.put, List.setIfInBounds_toArray, List.set_cons_zero, List.set_cons_succ]
    refine takeAE (i := 7) (oi := { dst := some 28, op := Op.fieldAddr 76 (Operand.tmp 27) 3, type := 0, pos := "extended.go:30", after := #[{ on := 6, ground := Ground.data }], guard := none }) rfl (by kernel_rfl) (by kernel_rfl) (by kernel_rfl) (fun _ _ _ _ h => nomatch h.1) (by rfl) ?_
    refine ⟨.pointer (some ⟨gq, 96, none⟩), fun w' => exec_field 76 (.tmp 27) 3 rfl _ 96 rfl (fld76_3 _), ?_⟩
    simp only [Act.put, List.setIfInBounds_toArray, List.set_cons_zero, List.set_cons_succ]
    refine takeT (i := 8) (oi := { dst := some 29, op := Op.load 23 (Operand.tmp 28), type := 23, pos := "extended.go:30", after := #[{ on := 7, ground := Ground.data }], guard := none }) (vN t2) rfl (by kernel_rfl) (by kernel_rfl) (by kernel_rfl) (by kernel_rfl) (by kernel_rfl) (fun _ _ _ h => nomatch h.1) (by rfl) (fun w' hk => exec_loadF (.tmp 28) rfl (gq) 3 96 rfl [x2, y2, z2, t2] t2 rfl (RY_35.out.below hk HLT35_2.out) rfl) ?_
    simp only [Act.put, List.setIfInBounds_toArray, List.set_cons_zero, List.set_cons_succ]
    refine eachW [0, 11] (by kernel_rfl) (by simp) ?_
    intro k hk
    simp only [List.mem_cons, List.not_mem_nil, or_false] at hk
    rcases hk with rfl | rfl
    · refine wpOp_call (i := 0) (oi := { dst := some 21, op := Op.call { callee := Callee.value (Operand.func 45), args := #[], argTypes := #[] }, type := 23, pos := "extended.go:30", after := #[], guard := none }) rfl (by rfl) (exec_callL 45 [] #[] rfl [] rfl (CG45 _)) ((C1.out D35).mono ?_)
      rintro e36 W36 ⟨rfl, hb36⟩
      refine ⟨_, rfl, fun _ => hb36.mono HL_35.out, ?_⟩
      have RG_36 := Lib.hid (RG_35.out.keep hb36)
      have RX_36 := Lib.hid (RX_35.out.keep hb36)
      have RY_36 := Lib.hid (RY_35.out.keep hb36)
      have Na27_0_36 := Lib.hid (Na27_0_35.out.keep hb36)
      have HF_36 : Hid (Keeps (· = g) w W36) := Lib.hid (HF_35.out.call hb36)
      have HL_36 : Hid (v34.heap.size ≤ W36.heap.size) := Lib.hid (Nat.le_trans HL_35.out hb36.size)
      clear hb36 HL_35 RG_35 RX_35 RY_35 Na27_0_35 HF_35
      simp only [Act.put, List.setIfInBounds_toArray, List.set_cons_zero, List.set_cons_succ]
      refine eachW [9, 11] (by kernel_rfl) (by simp) ?_
      intro k hk
      simp only [List.mem_cons, List.not_mem_nil, or_false] at hk
      rcases hk with rfl | rfl
      · refine wpOp_call (i := 9) (oi := { dst := some 30, op := Op.call { callee := Callee.value (Operand.func 25), args := #[Operand.tmp 25, Operand.tmp 29], argTypes := #[23, 23] }, type := 23, pos := "extended.go:30", after := #[{ on := 4, ground := Ground.data }, { on := 8, ground := Ground.data }, { on := 0, ground := Ground.chain }], guard := none }) rfl (by rfl) (exec_callL 25 [.tmp 25, .tmp 29] #[23, 23] rfl [vN t1, vN t2] rfl (CG25 _)) ((C2.out W36).mono ?_)
        rintro e37 W37 ⟨rfl, hb37⟩
        refine ⟨_, rfl, fun _ => hb37.mono HL_36.out, ?_⟩
        have RG_37 := Lib.hid (RG_36.out.keep hb37)
        have RX_37 := Lib.hid (RX_36.out.keep hb37)
        have RY_37 := Lib.hid (RY_36.out.keep hb37)
        have Na27_0_37 := Lib.hid (Na27_0_36.out.keep hb37)
        have HF_37 : Hid (Keeps (· = g) w W37) := Lib.hid (HF_36.out.call hb37)
        have HL_37 : Hid (v34.heap.size ≤ W37.heap.size) := Lib.hid (Nat.le_trans HL_36.out hb37.size)
        clear hb37 HL_36 RG_36 RX_36 RY_36 Na27_0_36 HF_36
        simp only [Act.put, List.setIfInBounds_toArray, List.set_cons_zero, List.set_cons_succ]
        refine eachW [10, 11] (by kernel_rfl) (by simp) ?_
        intro k hk
        simp only [List.mem_cons, List.not_mem_nil, or_false] at hk
        rcases hk with rfl | rfl
        · refine wpOp_call (i := 10) (oi := { dst := some 31, op := Op.call { callee := Callee.value (Operand.func 25), args := #[Operand.tmp 21, Operand.tmp 30], argTypes := #[23, 23] }, type := 23, pos := "extended.go:30", after := #[{ on := 0, ground := Ground.data }, { on := 9, ground := Ground.data }, { on := 9, ground := Ground.chain }], guard := none }) rfl (by rfl) (exec_callL 25 [.tmp 21, .tmp 30] #[23, 23] rfl [vN dd, vN tt] rfl (CG25 _)) ((C3.out W37).mono ?_)
          rintro e38 W38 ⟨rfl, hb38⟩
          refine ⟨_, rfl, fun _ => hb38.mono HL_37.out, ?_⟩
          have RG_38 := Lib.hid (RG_37.out.keep hb38)
          have RX_38 := Lib.hid (RX_37.out.keep hb38)
          have RY_38 := Lib.hid (RY_37.out.keep hb38)
          have Na27_0_38 := Lib.hid (Na27_0_37.out.keep hb38)
          have HF_38 : Hid (Keeps (· = g) w W38) := Lib.hid (HF_37.out.call hb38)
          have HL_38 : Hid (v34.heap.size ≤ W38.heap.size) := Lib.hid (Nat.le_trans HL_37.out hb38.size)
          clear hb38 HL_37 RG_37 RX_37 RY_37 Na27_0_37 HF_37
          simp only [Act.put, List.setIfInBounds_toArray, List.set_cons_zero, List.set_cons_succ]
          refine opW _ _ (i := 11) (oi := { dst := some 7, op := Op.alloc 23, type := 0, pos := "extended.go:30", after := #[], guard := none }) rfl (by kernel_rfl) (by rfl) (exec_alloc 23 rfl (.agg (zbs 32)) zero23 W38) (fun _ => (below_alloc W38 _).mono HL_38.out) ?_
          obtain ⟨W39, hW39, hb39, hz39⟩ := alloc_zero W38
          rw [← hW39]
          obtain ⟨g39, hg39⟩ : ∃ g, g = W38.heap.size := ⟨_, rfl⟩
          rw [← hg39] at hz39 ⊢
          have HG39 : Hid (v34.heap.size ≤ g39) := Lib.hid (by rw [hg39]; exact HL_38.out)
          have HX39_3 : Hid (g ≠ g39) := Lib.hid (by have := RG_38.out.lt; omega)
          have HX39_4 : Hid (gp ≠ g39) := Lib.hid (by have := RX_38.out.lt; omega)
          have HX39_5 : Hid (gq ≠ g39) := Lib.hid (by have := RY_38.out.lt; omega)
          have HX39_6 : Hid (a27_0 ≠ g39) := Lib.hid (by have := Na27_0_38.out.lt; omega)
          have RG_39 := Lib.hid (RG_38.out.keep hb39)
          have RX_39 := Lib.hid (RX_38.out.keep hb39)
          have RY_39 := Lib.hid (RY_38.out.keep hb39)
          have Na27_0_39 := Lib.hid (Na27_0_38.out.keep hb39)
          have HF_39 : Hid (Keeps (· = g) w W39) := Lib.hid (HF_38.out.call hb39)
          have HL_39 : Hid (v34.heap.size ≤ W39.heap.size) := Lib.hid (Nat.le_trans HL_38.out hb39.size)
          have RZ39_39 : Hid (RAt W39 g39 [0]) := Lib.hid (zrow (k := 1) hz39)
          clear hb39 hz39 hg39 hW39 HL_38 RG_38 RX_38 RY_38 Na27_0_38 HF_38
          simp only [Act.put, List.setIfInBounds_toArray, List.set_cons_zero, List.set_cons_succ]
          refine storeW_F (i := 12) (oi := { dst := none, op := Op.store 23 (Operand.tmp 7) (Operand.tmp 31), type := 0, pos := "extended.go:30", after := #[{ on := 11, ground := Ground.data }, { on := 10, ground := Ground.data }, { on := 10, ground := Ground.chain }, { on := 0, ground := Ground.phase }, { on := 1, ground := Ground.phase }, { on := 2, ground := Ground.phase }, { on := 3, ground := Ground.phase }, { on := 4, ground := Ground.phase }, { on := 5, ground := Ground.phase }, { on := 6, ground := Ground.phase }, { on := 7, ground := Ground.phase }, { on := 8, ground := Ground.phase }, { on := 9, ground := Ground.phase }, { on := 10, ground := Ground.phase }, { on := 11, ground := Ground.phase }], guard := none }) rfl (by kernel_rfl) (by rfl) (.tmp 7) (.tmp 31) rfl (g39) 0 0 rfl [0] d rfl rfl RZ39_39.out (show 0 < 1 by omega) rfl ?_
          intro W40 hr40 hg40 hz40
          simp only [Act.put, List.setIfInBounds_toArray, List.set_cons_zero, List.set_cons_succ]
          have RG_40 := Lib.hid (RG_39.out.grown hg40 (by have := HX39_3.out; simp; omega))
          have RX_40 := Lib.hid (RX_39.out.grown hg40 (by have := HX39_4.out; simp; omega))
          have RY_40 := Lib.hid (RY_39.out.grown hg40 (by have := HX39_5.out; simp; omega))
          have Na27_0_40 := Lib.hid (Na27_0_39.out.grown hg40 (by have := HX39_6.out; simp; omega))
          have RZ39_40 : Hid (RAt W40 g39 [d]) := Lib.hid hr40
          have HF_40 : Hid (Keeps (· = g) w W40) := Lib.hid (HF_39.out.newrow hg40 (show w.heap.size ≤ g39 from (by have := HG39.out; have := HLO35.out; omega)))
          have HL_40 : Hid (v34.heap.size ≤ W40.heap.size) := Lib.hid (Nat.le_trans HL_39.out hg40.size)
          clear hr40 hg40 hz40 HL_39 RG_39 RX_39 RY_39 Na27_0_39 RZ39_39 HF_39
          refine doneW (by kernel_rfl) ⟨rfl, ?_⟩ _
          exact ⟨g39, RG_40.out, RX_40.out, RY_40.out, Na27_0_40.out, RZ39_40.out, HG39.out, HF_40.out, rfl⟩
        · refine wpOp_value (i := 11) (oi := { dst := some 7, op := Op.alloc 23, type := 0, pos := "extended.go:30", after := #[], guard := none }) rfl (by rfl) (exec_alloc 23 rfl (.agg (zbs 32)) zero23 W37) ⟨fun _ => (below_alloc W37 _).mono HL_37.out, ?_⟩
          obtain ⟨W41, hW41, hb41, hz41⟩ := alloc_zero W37
          rw [← hW41]
          obtain ⟨g41, hg41⟩ : ∃ g, g = W37.heap.size := ⟨_, rfl⟩
          rw [← hg41] at hz41 ⊢
          have HG41 : Hid (v34.heap.size ≤ g41) := Lib.hid (by rw [hg41]; exact HL_37.out)
          have HX41_3 : Hid (g ≠ g41) := Lib.hid (by have := RG_37.out.lt; omega)
          have HX41_4 : Hid (gp ≠ g41) := Lib.hid (by have := RX_37.out.lt; omega)
          have HX41_5 : Hid (gq ≠ g41) := Lib.hid (by have := RY_37.out.lt; omega)
          have HX41_6 : Hid (a27_0 ≠ g41) := Lib.hid (by have := Na27_0_37.out.lt; omega)
          have RG_41 := Lib.hid (RG_37.out.keep hb41)
          have RX_41 := Lib.hid (RX_37.out.keep hb41)
          have RY_41 := Lib.hid (RY_37.out.keep hb41)
          have Na27_0_41 := Lib.hid (Na27_0_37.out.keep hb41)
          have HF_41 : Hid (Keeps (· = g) w W41) := Lib.hid (HF_37.out.call hb41)
          have HL_41 : Hid (v34.heap.size ≤ W41.heap.size) := Lib.hid (Nat.le_trans HL_37.out hb41.size)
          have RZ41_41 : Hid (RAt W41 g41 [0]) := Lib.hid (zrow (k := 1) hz41)
          clear hb41 hz41 hg41 hW41 HL_37 RG_37 RX_37 RY_37 Na27_0_37 HF_37
          simp only [Act.put, List.setIfInBounds_toArray, List.set_cons_zero, List.set_cons_succ]
          refine callW (i := 10) (oi := { dst := some 31, op := Op.call { callee := Callee.value (Operand.func 25), args := #[Operand.tmp 21, Operand.tmp 30], argTypes := #[23, 23] }, type := 23, pos := "extended.go:30", after := #[{ on := 0, ground := Ground.data }, { on := 9, ground := Ground.data }, { on := 9, ground := Ground.chain }], guard := none }) rfl (by kernel_rfl) (by rfl) (exec_callL 25 [.tmp 21, .tmp 30] #[23, 23] rfl [vN dd, vN tt] rfl (CG25 _)) ((C3.out W41).mono ?_)
          rintro e42 W42 ⟨rfl, hb42⟩
          refine ⟨_, rfl, fun _ => hb42.mono HL_41.out, ?_⟩
          have RG_42 := Lib.hid (RG_41.out.keep hb42)
          have RX_42 := Lib.hid (RX_41.out.keep hb42)
          have RY_42 := Lib.hid (RY_41.out.keep hb42)
          have Na27_0_42 := Lib.hid (Na27_0_41.out.keep hb42)
          have RZ41_42 := Lib.hid (RZ41_41.out.keep hb42)
          have HF_42 : Hid (Keeps (· = g) w W42) := Lib.hid (HF_41.out.call hb42)
          have HL_42 : Hid (v34.heap.size ≤ W42.heap.size) := Lib.hid (Nat.le_trans HL_41.out hb42.size)
          clear hb42 HL_41 RG_41 RX_41 RY_41 Na27_0_41 RZ41_41 HF_41
          simp only [Act.put, List.setIfInBounds_toArray, List.set_cons_zero, List.set_cons_succ]
          refine storeW_F (i := 12) (oi := { dst := none, op := Op.store 23 (Operand.tmp 7) (Operand.tmp 31), type := 0, pos := "extended.go:30", after := #[{ on := 11, ground := Ground.data }, { on := 10, ground := Ground.data }, { on := 10, ground := Ground.chain }, { on := 0, ground := Ground.phase }, { on := 1, ground := Ground.phase }, { on := 2, ground := Ground.phase }, { on := 3, ground := Ground.phase }, { on := 4, ground := Ground.phase }, { on := 5, ground := Ground.phase }, { on := 6, ground := Ground.phase }, { on := 7, ground := Ground.phase }, { on := 8, ground := Ground.phase }, { on := 9, ground := Ground.phase }, { on := 10, ground := Ground.phase }, { on := 11, ground := Ground.phase }], guard := none }) rfl (by kernel_rfl) (by rfl) (.tmp 7) (.tmp 31) rfl (g41) 0 0 rfl [0] d rfl rfl RZ41_42.out (show 0 < 1 by omega) rfl ?_
          intro W43 hr43 hg43 hz43
          simp only [Act.put, List.setIfInBounds_toArray, List.set_cons_zero, List.set_cons_succ]
          have RG_43 := Lib.hid (RG_42.out.grown hg43 (by have := HX41_3.out; simp; omega))
          have RX_43 := Lib.hid (RX_42.out.grown hg43 (by have := HX41_4.out; simp; omega))
          have RY_43 := Lib.hid (RY_42.out.grown hg43 (by have := HX41_5.out; simp; omega))
          have Na27_0_43 := Lib.hid (Na27_0_42.out.grown hg43 (by have := HX41_6.out; simp; omega))
          have RZ41_43 : Hid (RAt W43 g41 [d]) := Lib.hid hr43
          have HF_43 : Hid (Keeps (· = g) w W43) := Lib.hid (HF_42.out.newrow hg43 (show w.heap.size ≤ g41 from (by have := HG41.out; have := HLO35.out; omega)))
          have HL_43 : Hid (v34.heap.size ≤ W43.heap.size) := Lib.hid (Nat.le_trans HL_42.out hg43.size)
          clear hr43 hg43 hz43 HL_42 RG_42 RX_42 RY_42 Na27_0_42 RZ41_42 HF_42
          refine doneW (by kernel_rfl) ⟨rfl, ?_⟩ _
          exact ⟨g41, RG_43.out, RX_43.out, RY_43.out, Na27_0_43.out, RZ41_43.out, HG41.out, HF_43.out, rfl⟩
      · refine wpOp_value (i := 11) (oi := { dst := some 7, op := Op.alloc 23, type := 0, pos := "extended.go:30", after := #[], guard := none }) rfl (by rfl) (exec_alloc 23 rfl (.agg (zbs 32)) zero23 W36) ⟨fun _ => (below_alloc W36 _).mono HL_36.out, ?_⟩
        obtain ⟨W44, hW44, hb44, hz44⟩ := alloc_zero W36
        rw [← hW44]
        obtain ⟨g44, hg44⟩ : ∃ g, g = W36.heap.size := ⟨_, rfl⟩
        rw [← hg44] at hz44 ⊢
        have HG44 : Hid (v34.heap.size ≤ g44) := Lib.hid (by rw [hg44]; exact HL_36.out)
        have HX44_3 : Hid (g ≠ g44) := Lib.hid (by have := RG_36.out.lt; omega)
        have HX44_4 : Hid (gp ≠ g44) := Lib.hid (by have := RX_36.out.lt; omega)
        have HX44_5 : Hid (gq ≠ g44) := Lib.hid (by have := RY_36.out.lt; omega)
        have HX44_6 : Hid (a27_0 ≠ g44) := Lib.hid (by have := Na27_0_36.out.lt; omega)
        have RG_44 := Lib.hid (RG_36.out.keep hb44)
        have RX_44 := Lib.hid (RX_36.out.keep hb44)
        have RY_44 := Lib.hid (RY_36.out.keep hb44)
        have Na27_0_44 := Lib.hid (Na27_0_36.out.keep hb44)
        have HF_44 : Hid (Keeps (· = g) w W44) := Lib.hid (HF_36.out.call hb44)
        have HL_44 : Hid (v34.heap.size ≤ W44.heap.size) := Lib.hid (Nat.le_trans HL_36.out hb44.size)
        have RZ44_44 : Hid (RAt W44 g44 [0]) := Lib.hid (zrow (k := 1) hz44)
        clear hb44 hz44 hg44 hW44 HL_36 RG_36 RX_36 RY_36 Na27_0_36 HF_36
        simp only [Act.put, List.setIfInBounds_toArray, List.set_cons_zero, List.set_cons_succ]
        refine callW (i := 9) (oi := { dst := some 30, op := Op.call { callee := Callee.value (Operand.func 25), args := #[Operand.tmp 25, Operand.tmp 29], argTypes := #[23, 23] }, type := 23, pos := "extended.go:30", after := #[{ on := 4, ground := Ground.data }, { on := 8, ground := Ground.data }, { on := 0, ground := Ground.chain }], guard := none }) rfl (by kernel_rfl) (by rfl) (exec_callL 25 [.tmp 25, .tmp 29] #[23, 23] rfl [vN t1, vN t2] rfl (CG25 _)) ((C2.out W44).mono ?_)
        rintro e45 W45 ⟨rfl, hb45⟩
        refine ⟨_, rfl, fun _ => hb45.mono HL_44.out, ?_⟩
        have RG_45 := Lib.hid (RG_44.out.keep hb45)
        have RX_45 := Lib.hid (RX_44.out.keep hb45)
        have RY_45 := Lib.hid (RY_44.out.keep hb45)
        have Na27_0_45 := Lib.hid (Na27_0_44.out.keep hb45)
        have RZ44_45 := Lib.hid (RZ44_44.out.keep hb45)
        have HF_45 : Hid (Keeps (· = g) w W45) := Lib.hid (HF_44.out.call hb45)
        have HL_45 : Hid (v34.heap.size ≤ W45.heap.size) := Lib.hid (Nat.le_trans HL_44.out hb45.size)
        clear hb45 HL_44 RG_44 RX_44 RY_44 Na27_0_44 RZ44_44 HF_44
        simp only [Act.put, List.setIfInBounds_toArray, List.set_cons_zero, List.set_cons_succ]
        refine callW (i := 10) (oi := { dst := some 31, op := Op.call { callee := Callee.value (Operand.func 25), args := #[Operand.tmp 21, Operand.tmp 30], argTypes := #[23, 23] }, type := 23, pos := "extended.go:30", after := #[{ on := 0, ground := Ground.data }, { on := 9, ground := Ground.data }, { on := 9, ground := Ground.chain }], guard := none }) rfl (by kernel_rfl) (by rfl) (exec_callL 25 [.tmp 21, .tmp 30] #[23, 23] rfl [vN dd, vN tt] rfl (CG25 _)) ((C3.out W45).mono ?_)
        rintro e46 W46 ⟨rfl, hb46⟩
        refine ⟨_, rfl, fun _ => hb46.mono HL_45.out, ?_⟩
        have RG_46 := Lib.hid (RG_45.out.keep hb46)
        have RX_46 := Lib.hid (RX_45.out.keep hb46)
        have RY_46 := Lib.hid (RY_45.out.keep hb46)
        have Na27_0_46 := Lib.hid (Na27_0_45.out.keep hb46)
        have RZ44_46 := Lib.hid (RZ44_45.out.keep hb46)
        have HF_46 : Hid (Keeps (· = g) w W46) := Lib.hid (HF_45.out.call hb46)
        have HL_46 : Hid (v34.heap.size ≤ W46.heap.size) := Lib.hid (Nat.le_trans HL_45.out hb46.size)
        clear hb46 HL_45 RG_45 RX_45 RY_45 Na27_0_45 RZ44_45 HF_45
        simp only [Act.put, List.setIfInBounds_toArray, List.set_cons_zero, List.set_cons_succ]
        refine storeW_F (i := 12) (oi := { dst := none, op := Op.store 23 (Operand.tmp 7) (Operand.tmp 31), type := 0, pos := "extended.go:30", after := #[{ on := 11, ground := Ground.data }, { on := 10, ground := Ground.data }, { on := 10, ground := Ground.chain }, { on := 0, ground := Ground.phase }, { on := 1, ground := Ground.phase }, { on := 2, ground := Ground.phase }, { on := 3, ground := Ground.phase }, { on := 4, ground := Ground.phase }, { on := 5, ground := Ground.phase }, { on := 6, ground := Ground.phase }, { on := 7, ground := Ground.phase }, { on := 8, ground := Ground.phase }, { on := 9, ground := Ground.phase }, { on := 10, ground := Ground.phase }, { on := 11, ground := Ground.phase }], guard := none }) rfl (by kernel_rfl) (by rfl) (.tmp 7) (.tmp 31) rfl (g44) 0 0 rfl [0] d rfl rfl RZ44_46.out (show 0 < 1 by omega) rfl ?_
        intro W47 hr47 hg47 hz47
        simp only [Act.put, List.setIfInBounds_toArray, List.set_cons_zero, List.set_cons_succ]
        have RG_47 := Lib.hid (RG_46.out.grown hg47 (by have := HX44_3.out; simp; omega))
        have RX_47 := Lib.hid (RX_46.out.grown hg47 (by have := HX44_4.out; simp; omega))
        have RY_47 := Lib.hid (RY_46.out.grown hg47 (by have := HX44_5.out; simp; omega))
        have Na27_0_47 := Lib.hid (Na27_0_46.out.grown hg47 (by have := HX44_6.out; simp; omega))
        have RZ44_47 : Hid (RAt W47 g44 [d]) := Lib.hid hr47
        have HF_47 : Hid (Keeps (· = g) w W47) := Lib.hid (HF_46.out.newrow hg47 (show w.heap.size ≤ g44 from (by have := HG44.out; have := HLO35.out; omega)))
        have HL_47 : Hid (v34.heap.size ≤ W47.heap.size) := Lib.hid (Nat.le_trans HL_46.out hg47.size)
        clear hr47 hg47 hz47 HL_46 RG_46 RX_46 RY_46 Na27_0_46 RZ44_46 HF_46
        refine doneW (by kernel_rfl) ⟨rfl, ?_⟩ _
        exact ⟨g44, RG_47.out, RX_47.out, RY_47.out, Na27_0_47.out, RZ44_47.out, HG44.out, HF_47.out, rfl⟩
    · refine wpOp_value (i := 11) (oi := { dst := some 7, op := Op.alloc 23, type := 0, pos := "extended.go:30", after := #[], guard := none }) rfl (by rfl) (exec_alloc 23 rfl (.agg (zbs 32)) zero23 D35) ⟨fun _ => (below_alloc D35 _).mono HL_35.out, ?_⟩
      obtain ⟨W48, hW48, hb48, hz48⟩ := alloc_zero D35
      rw [← hW48]
      obtain ⟨g48, hg48⟩ : ∃ g, g = D35.heap.size := ⟨_, rfl⟩
      rw [← hg48] at hz48 ⊢
      have HG48 : Hid (v34.heap.size ≤ g48) := Lib.hid (by rw [hg48]; exact HL_35.out)
      have HX48_3 : Hid (g ≠ g48) := Lib.hid (by have := RG_35.out.lt; omega)
      have HX48_4 : Hid (gp ≠ g48) := Lib.hid (by have := RX_35.out.lt; omega)
      have HX48_5 : Hid (gq ≠ g48) := Lib.hid (by have := RY_35.out.lt; omega)
      have HX48_6 : Hid (a27_0 ≠ g48) := Lib.hid (by have := Na27_0_35.out.lt; omega)
      have RG_48 := Lib.hid (RG_35.out.keep hb48)
      have RX_48 := Lib.hid (RX_35.out.keep hb48)
      have RY_48 := Lib.hid (RY_35.out.keep hb48)
      have Na27_0_48 := Lib.hid (Na27_0_35.out.keep hb48)
      have HF_48 : Hid (Keeps (· = g) w W48) := Lib.hid (HF_35.out.call hb48)
      have HL_48 : Hid (v34.heap.size ≤ W48.heap.size) := Lib.hid (Nat.le_trans HL_35.out hb48.size)
      have RZ48_48 : Hid (RAt W48 g48 [0]) := Lib.hid (zrow (k := 1) hz48)
      clear hb48 hz48 hg48 hW48 HL_35 RG_35 RX_35 RY_35 Na27_0_35 HF_35
      simp only [Act.put, List.setIfInBounds_toArray, List.set_cons_zero, List.set_cons_succ]
      refine callW (i := 0) (oi := { dst := some 21, op := Op.call { callee := Callee.value (Operand.func 45), args := #[], argTypes := #[] }, type := 23, pos := "extended.go:30", after := #[], guard := none }) rfl (by kernel_rfl) (by rfl) (exec_callL 45 [] #[] rfl [] rfl (CG45 _)) ((C1.out W48).mono ?_)
      rintro e49 W49 ⟨rfl, hb49⟩
      refine ⟨_, rfl, fun _ => hb49.mono HL_48.out, ?_⟩
      have RG_49 := Lib.hid (RG_48.out.keep hb49)
      have RX_49 := Lib.hid (RX_48.out.keep hb49)
      have RY_49 := Lib.hid (RY_48.out.keep hb49)
      have Na27_0_49 := Lib.hid (Na27_0_48.out.keep hb49)
      have RZ48_49 := Lib.hid (RZ48_48.out.keep hb49)
      have HF_49 : Hid (Keeps (· = g) w W49) := Lib.hid (HF_48.out.call hb49)
      have HL_49 : Hid (v34.heap.size ≤ W49.heap.size) := Lib.hid (Nat.le_trans HL_48.out hb49.size)
      clear hb49 HL_48 RG_48 RX_48 RY_48 Na27_0_48 RZ48_48 HF_48
      simp only [Act.put, List.setIfInBounds_toArray, List.set_cons_zero, List.set_cons_succ]
      refine callW (i := 9) (oi := { dst := some 30, op := Op.call { callee := Callee.value (Operand.func 25), args := #[Operand.tmp 25, Operand.tmp 29], argTypes := #[23, 23] }, type := 23, pos := "extended.go:30", after := #[{ on := 4, ground := Ground.data }, { on := 8, ground := Ground.data }, { on := 0, ground := Ground.chain }], guard := none }) rfl (by kernel_rfl) (by rfl) (exec_callL 25 [.tmp 25, .tmp 29] #[23, 23] rfl [vN t1, vN t2] rfl (CG25 _)) ((C2.out W49).mono ?_)
      rintro e50 W50 ⟨rfl, hb50⟩
      refine ⟨_, rfl, fun _ => hb50.mono HL_49.out, ?_⟩
      have RG_50 := Lib.hid (RG_49.out.keep hb50)
      have RX_50 := Lib.hid (RX_49.out.keep hb50)
      have RY_50 := Lib.hid (RY_49.out.keep hb50)
      have Na27_0_50 := Lib.hid (Na27_0_49.out.keep hb50)
      have RZ48_50 := Lib.hid (RZ48_49.out.keep hb50)
      have HF_50 : Hid (Keeps (· = g) w W50) := Lib.hid (HF_49.out.call hb50)
      have HL_50 : Hid (v34.heap.size ≤ W50.heap.size) := Lib.hid (Nat.le_trans HL_49.out hb50.size)
      clear hb50 HL_49 RG_49 RX_49 RY_49 Na27_0_49 RZ48_49 HF_49
      simp only [Act.put, List.setIfInBounds_toArray, List.set_cons_zero, List.set_cons_succ]
      refine callW (i := 10) (oi := { dst := some 31, op := Op.call { callee := Callee.value (Operand.func 25), args := #[Operand.tmp 21, Operand.tmp 30], argTypes := #[23, 23] }, type := 23, pos := "extended.go:30", after := #[{ on := 0, ground := Ground.data }, { on := 9, ground := Ground.data }, { on := 9, ground := Ground.chain }], guard := none }) rfl (by kernel_rfl) (by rfl) (exec_callL 25 [.tmp 21, .tmp 30] #[23, 23] rfl [vN dd, vN tt] rfl (CG25 _)) ((C3.out W50).mono ?_)
      rintro e51 W51 ⟨rfl, hb51⟩
      refine ⟨_, rfl, fun _ => hb51.mono HL_50.out, ?_⟩
      have RG_51 := Lib.hid (RG_50.out.keep hb51)
      have RX_51 := Lib.hid (RX_50.out.keep hb51)
      have RY_51 := Lib.hid (RY_50.out.keep hb51)
      have Na27_0_51 := Lib.hid (Na27_0_50.out.keep hb51)
      have RZ48_51 := Lib.hid (RZ48_50.out.keep hb51)
      have HF_51 : Hid (Keeps (· = g) w W51) := Lib.hid (HF_50.out.call hb51)
      have HL_51 : Hid (v34.heap.size ≤ W51.heap.size) := Lib.hid (Nat.le_trans HL_50.out hb51.size)
      clear hb51 HL_50 RG_50 RX_50 RY_50 Na27_0_50 RZ48_50 HF_50
      simp only [Act.put, List.setIfInBounds_toArray, List.set_cons_zero, List.set_cons_succ]
      refine storeW_F (i := 12) (oi := { dst := none, op := Op.store 23 (Operand.tmp 7) (Operand.tmp 31), type := 0, pos := "extended.go:30", after := #[{ on := 11, ground := Ground.data }, { on := 10, ground := Ground.data }, { on := 10, ground := Ground.chain }, { on := 0, ground := Ground.phase }, { on := 1, ground := Ground.phase }, { on := 2, ground := Ground.phase }, { on := 3, ground := Ground.phase }, { on := 4, ground := Ground.phase }, { on := 5, ground := Ground.phase }, { on := 6, ground := Ground.phase }, { on := 7, ground := Ground.phase }, { on := 8, ground := Ground.phase }, { on := 9, ground := Ground.phase }, { on := 10, ground := Ground.phase }, { on := 11, ground := Ground.phase }], guard := none }) rfl (by kernel_rfl) (by rfl) (.tmp 7) (.tmp 31) rfl (g48) 0 0 rfl [0] d rfl rfl RZ48_51.out (show 0 < 1 by omega) rfl ?_
      intro W52 hr52 hg52 hz52
      simp only [Act.put, List.setIfInBounds_toArray, List.set_cons_zero, List.set_cons_succ]
      have RG_52 := Lib.hid (RG_51.out.grown hg52 (by have := HX48_3.out; simp; omega))
      have RX_52 := Lib.hid (RX_51.out.grown hg52 (by have := HX48_4.out; simp; omega))
      have RY_52 := Lib.hid (RY_51.out.grown hg52 (by have := HX48_5.out; simp; omega))
      have Na27_0_52 := Lib.hid (Na27_0_51.out.grown hg52 (by have := HX48_6.out; simp; omega))
      have RZ48_52 : Hid (RAt W52 g48 [d]) := Lib.hid hr52
      have HF_52 : Hid (Keeps (· = g) w W52) := Lib.hid (HF_51.out.newrow hg52 (show w.heap.size ≤ g48 from (by have := HG48.out; have := HLO35.out; omega)))
      have HL_52 : Hid (v34.heap.size ≤ W52.heap.size) := Lib.hid (Nat.le_trans HL_51.out hg52.size)
      clear hr52 hg52 hz52 HL_51 RG_51 RX_51 RY_51 Na27_0_51 RZ48_51 HF_51
      refine doneW (by kernel_rfl) ⟨rfl, ?_⟩ _
      exact ⟨g48, RG_52.out, RX_52.out, RY_52.out, Na27_0_52.out, RZ48_52.out, HG48.out, HF_52.out, rfl⟩
  rintro a' v53 ⟨a35_0, h0, h1, h2, h3, h4, k0, hF, rfl⟩
  have RG_53 := Lib.hid h0
  have RX_53 := Lib.hid h1
  have RY_53 := Lib.hid h2
  have Na27_0_53 := Lib.hid h3
  have Na35_0_53 := Lib.hid h4
  have HNE53_3 : Hid (g ≠ a35_0) := Lib.hid (by have := HLT35_0.out; omega)
  have HNE53_4 : Hid (gp ≠ a35_0) := Lib.hid (by have := HLT35_1.out; omega)
  have HNE53_5 : Hid (gq ≠ a35_0) := Lib.hid (by have := HLT35_2.out; omega)
  have HNE53_6 : Hid (a27_0 ≠ a35_0) := Lib.hid (by have := HLT35_3.out; omega)
  have HGE53_0 : Hid (w.heap.size ≤ a35_0) := Lib.hid (by have := HLO35.out; omega)
  have HF_53 := Lib.hid hF
  clear h0 h1 h2 h3 h4 k0 hF HLT35_0 HLT35_1 HLT35_2 HLT35_3 HLO35 RG_34 RX_34 RY_34 Na27_0_34 HF_34
  go_wp2_with fail
  have HLT54_0 : Hid (g < v53.heap.size) := Lib.hid RG_53.out.lt
  have HLT54_1 : Hid (gp < v53.heap.size) := Lib.hid RX_53.out.lt
  have HLT54_2 : Hid (gq < v53.heap.size) := Lib.hid RY_53.out.lt
  have HLT54_3 : Hid (a27_0 < v53.heap.size) := Lib.hid Na27_0_53.out.lt
  have HLT54_4 : Hid (a35_0 < v53.heap.size) := Lib.hid Na35_0_53.out.lt
  have HLO54 : Hid (w.heap.size ≤ v53.heap.size) := Lib.hid HF_53.out.size
  refine region_split (fun a' W => ∃ a54_0, RAt W g [r0, r1, r2, r3] ∧ RAt W gp [x1, y1, z1, t1] ∧ RAt W gq [x2, y2, z2, t2] ∧ RAt W a27_0 [one] ∧ RAt W a35_0 [d] ∧ RAt W a54_0 [x] ∧ v53.heap.size ≤ a54_0 ∧ Keeps (· = g) w W ∧ a' = ⟨#[.pointer (some ⟨g, 0, none⟩), .pointer (some ⟨gp, 0, none⟩), .pointer (some ⟨gq, 0, none⟩), undef, undef, undef, .pointer (some ⟨a27_0, 0, none⟩), .pointer (some ⟨a35_0, 0, none⟩), .pointer (some ⟨a54_0, 0, none⟩), undef, undef, undef, .pointer (some ⟨gp, 0, none⟩), .pointer (some ⟨gp, 0, none⟩), .pointer (some ⟨gp, 64, none⟩), vN z1, .pointer (some ⟨gq, 0, none⟩), .pointer (some ⟨gq, 0, none⟩), .pointer (some ⟨gq, 64, none⟩), vN z2, vN one, vN dd, .pointer (some ⟨gp, 0, none⟩), .pointer (some ⟨gp, 0, none⟩), .pointer (some ⟨gp, 96, none⟩), vN t1, .pointer (some ⟨gq, 0, none⟩), .pointer (some ⟨gq, 0, none⟩), .pointer (some ⟨gq, 96, none⟩), vN t2, vN tt, vN d, .pointer (some ⟨gp, 0, none⟩), .pointer (some ⟨gp, 0, none⟩), .pointer (some ⟨gp, 0, none⟩), vN x1, .pointer (some ⟨gq, 0, none⟩), .pointer (some ⟨gq, 0, none⟩), .pointer (some ⟨gq, 32, none⟩), vN y2, vN a1, .pointer (some ⟨gp, 0, none⟩), .pointer (some ⟨gp, 0, none⟩), .pointer (some ⟨gp, 32, none⟩), vN y1, .pointer (some ⟨gq, 0, none⟩), .pointer (some ⟨gq, 0, none⟩), .pointer (some ⟨gq, 0, none⟩), vN x2, vN a2, vN x, undef, undef, undef, undef, undef, undef, undef, undef, undef, undef, undef, undef, undef, undef, undef, undef, undef, undef, undef, undef, undef, undef, undef, undef, undef, undef, undef], []⟩) ?_ ?_
  · refine startW (fun j => j == 20) (v53.heap.size) (by kernel_rfl) ?_
    obtain ⟨D54, hD54⟩ : ∃ D, D = v53.drew := ⟨_, rfl⟩
    rw [← hD54]
    have HL_54 : Hid (v53.heap.size ≤ D54.heap.size) := Lib.hid (by rw [hD54]; exact Nat.le_refl _)
    have RG_54 : Hid (RAt D54 g [r0, r1, r2, r3]) := Lib.hid (by rw [hD54]; exact RG_53.out)
    have RX_54 : Hid (RAt D54 gp [x1, y1, z1, t1]) := Lib.hid (by rw [hD54]; exact RX_53.out)
    have RY_54 : Hid (RAt D54 gq [x2, y2, z2, t2]) := Lib.hid (by rw [hD54]; exact RY_53.out)
    have Na27_0_54 : Hid (RAt D54 a27_0 [one]) := Lib.hid (by rw [hD54]; exact Na27_0_53.out)
    have Na35_0_54 : Hid (RAt D54 a35_0 [d]) := Lib.hid (by rw [hD54]; exact Na35_0_53.out)
    have HF_54 : Hid (Keeps (· = g) w D54) := Lib.hid (by rw [hD54]; exact drew_rel HF_53.out)
    clear hD54 RG_53 RX_53 RY_53 Na27_0_53 Na35_0_53 HF_53
    refine takeAE (i := 0) (oi := { dst := some 32, op := Op.move (Operand.tmp 1), type := 80, pos := "extended.go:31", after := #[], guard := none }) rfl (by kernel_rfl) (by kernel_rfl) (by kernel_rfl) (fun _ _ _ _ h => nomatch h.1) (by rfl) ?_
    refine ⟨.pointer (some ⟨gp, 0, none⟩), fun w' => exec_move (.tmp 1) rfl _ rfl, ?_⟩
    simp only [Act.put, List.setIfInBounds_toArray, List.set_cons_zero, List.set_cons_succ]
    refine takeAE (i := 1) (oi := { dst := some 33, op := Op.nilCheck (Operand.tmp 32), type := 0, pos := "extended.go:31", after := #[{ on := 0, ground := Ground.data }], guard := none }) rfl (by kernel_rfl) (by kernel_rfl) (by kernel_rfl) (fun _ _ _ _ h => nomatch h.1) (by rfl) ?_
    refine ⟨.pointer (some ⟨gp, 0, none⟩), fun w' => exec_nil (.tmp 32) rfl _ rfl, ?_⟩
    simp only [Act.put, List.setIfInBounds_toArray, List.set_cons_zero, List.set_cons_succ]
    refine takeAE (i := 2) (oi := { dst := some 34, op := Op.fieldAddr 76 (Operand.tmp 33) 0, type := 0, pos := "extended.go:31", after := #[{ on := 1, ground := Ground.data }], guard := none }) rfl (by kernel_rfl) (by kernel_rfl) (by kernel_rfl) (fun _ _ _ _ h => nomatch h.1) (by rfl) ?_
    refine ⟨.pointer (some ⟨gp, 0, none⟩), fun w' => exec_field 76 (.tmp 33) 0 rfl _ 0 rfl (fld76_0 _), ?_⟩
    simp only [Act.put, List.setIfInBounds_toArray, List.set_cons_zero, List.set_cons_succ]
    refine takeT (i := 3) (oi := { dst := some 35, op := Op.load 23 (Operand.tmp 34), type := 23, pos := "extended.go:31", after := #[{ on := 2, ground := Ground.data }], guard := none }) (vN x1) rfl (by kernel_rfl) (by kernel_rfl) (by kernel_rfl) (by kernel_rfl) (by kernel_rfl) (fun _ _ _ h => nomatch h.1) (by rfl) (fun w' hk => exec_loadF (.tmp 34) rfl (gp) 0 0 rfl [x1, y1, z1, t1] x1 rfl (RX_54.out.below hk HLT54_1.out) rfl) ?_
    simp only [Act.put, List.setIfInBounds_toArray, List.set_cons_zero, List.set_cons_succ]
    refine takeAE (i := 4) (oi := { dst := some 36, op := Op.move (Operand.tmp 2), type := 80, pos := "extended.go:31", after := #[], guard := none }) rfl (by kernel_rfl) (by kernel_rfl) (by kernel_rfl) (fun _ _ _ _ h => nomatch h.1) (by rfl) ?_
    refine ⟨.pointer (some ⟨gq, 0, none⟩), fun w' => exec_move (.tmp 2) rfl _ rfl, ?_⟩
    simp only [Act.put, List.setIfInBounds_toArray, List.set_cons_zero, List.set_cons_succ]
    refine takeAE (i := 5) (oi := { dst := some 37, op := Op.nilCheck (Operand.tmp 36), type := 0, pos := "extended.go:31", after := #[{ on := 4, ground := Ground.data }], guard := none }) rfl (by kernel_rfl) (by kernel_rfl) (by kernel_rfl) (fun _ _ _ _ h => nomatch h.1) (by rfl) ?_
    refine ⟨.pointer (some ⟨gq, 0, none⟩), fun w' => exec_nil (.tmp 36) rfl _ rfl, ?_⟩
    simp only [Act.put, List.setIfInBounds_toArray, List.set_cons_zero, List.set_cons_succ]
    refine takeAE (i := 6) (oi := { dst := some 38, op := Op.fieldAddr 76 (Operand.tmp 37) 1, type := 0, pos := "extended.go:31", after := #[{ on := 5, ground := Ground.data }], guard := none }) rfl (by kernel_rfl) (by kernel_rfl) (by kernel_rfl) (fun _ _ _ _ h => nomatch h.1) (by rfl) ?_
    refine ⟨.pointer (some ⟨gq, 32, none⟩), fun w' => exec_field 76 (.tmp 37) 1 rfl _ 32 rfl (fld76_1 _), ?_⟩
    simp only [Act.put, List.setIfInBounds_toArray, List.set_cons_zero, List.set_cons_succ]
    refine takeT (i := 7) (oi := { dst := some 39, op := Op.load 23 (Operand.tmp 38), type := 23, pos := "extended.go:31", after := #[{ on := 6, ground := Ground.data }], guard := none }) (vN y2) rfl (by kernel_rfl) (by kernel_rfl) (by kernel_rfl) (by kernel_rfl) (by kernel_rfl) (fun _ _ _ h => nomatch h.1) (by rfl) (fun w' hk => exec_loadF (.tmp 38) rfl (gq) 1 32 rfl [x2, y2, z2, t2] y2 rfl (RY_54.out.below hk HLT54_2.out) rfl) ?_
    simp only [Act.put, List.setIfInBounds_toArray, List.set_cons_zero, List.set_cons_succ]
    refine takeAE (i := 9) (oi := { dst := some 41, op := Op.move (Operand.tmp 1), type := 80, pos := "extended.go:31", after := #[], guard := none }) rfl (by kernel_rfl) (by kernel_rfl) (by kernel_rfl) (fun _ _ _ _ h => nomatch h.1) (by rfl) ?_
    refine ⟨.pointer (some ⟨gp, 0, none⟩), fun w' => exec_move (.tmp 1) rfl _ rfl, ?_⟩
    simp only [Act.put, List.setIfInBounds_toArray, List.set_cons_zero, List.set_cons_succ]
    refine takeAE (i := 10) (oi := { dst := some 42, op := Op.nilCheck (Operand.tmp 41), type := 0, pos := "extended.go:31", after := #[{ on := 9, ground := Ground.data }], guard := none }) rfl (by kernel_rfl) (by kernel_rfl) (by kernel_rfl) (fun _ _ _ _ h => nomatch h.1) (by rfl) ?_
    refine ⟨.pointer (some ⟨gp, 0, none⟩), fun w' => exec_nil (.tmp 41) rfl _ rfl, ?_⟩
    simp only [Act.put, List.setIfInBounds_toArray, List.set_cons_zero, List.set_cons_succ]
    refine takeAE (i := 11) (oi := { dst := some 43, op := Op.fieldAddr 76 (Operand.tmp 42) 1, type := 0, pos := "extended.go:31", after := #[{ on := 10, ground := Ground.data }], guard := none }) rfl (by kernel_rfl) (by kernel_rfl) (by kernel_rfl) (fun _ _ _ _ h => nomatch h.1) (by rfl) ?_
    refine ⟨.pointer (some ⟨gp, 32, none⟩), fun w' => exec_field 76 (.tmp 42) 1 rfl _ 32 rfl (fld76_1 _), ?_⟩
    simp only [Act.put, List.setIfInBounds_toArray, List.set_cons_zero, List.set_cons_succ]
    refine takeT (i := 12) (oi := { dst := some 44, op := Op.load 23 (Operand.tmp 43), type := 23, pos := "extended.go:31", after := #[{ on := 11, ground := Ground.data }], guard := none }) (vN y1) rfl (by kernel_rfl) (by kernel_rfl) (by kernel_rfl) (by kernel_rfl) (by kernel_rfl) (fun _ _ _ h => nomatch h.1) (by rfl) (fun w' hk => exec_loadF (.tmp 43) rfl (gp) 1 32 rfl [x1, y1, z1, t1] y1 rfl (RX_54.out.below hk HLT54_1.out) rfl) ?_
    simp only [Act.put, List.setIfInBounds_toArray, List.set_cons_zero, List.set_cons_succ]
    refine takeAE (i := 13) (oi := { dst := some 45, op := Op.move (Operand.tmp 2), type := 80, pos := "extended.go:31", after := #[], guard := none }) rfl (by kernel_rfl) (by kernel_rfl) (by kernel_rfl) (fun _ _ _ _ h => nomatch h.1) (by rfl) ?_
    refine ⟨.pointer (some ⟨gq, 0, none⟩), fun w' => exec_move (.tmp 2) rfl _ rfl, ?_⟩
    simp only [Act.put, List.setIfInBounds_toArray, List.set_cons_zero, List.set_cons_succ]
    refine takeAE (i := 14) (oi := { dst := some 46, op := Op.nilCheck (Operand.tmp 45), type := 0, pos := "extended.go:31", after := #[{ on := 13, ground := Ground.data }], guard := none }) rfl (by kernel_rfl) (by kernel_rfl) (by kernel_rfl) (fun _ _ _ _ h => nomatch h.1) (by rfl) ?_
    refine ⟨.pointer (some ⟨gq, 0, none⟩), fun w' => exec_nil (.tmp 45) rfl _ rfl, ?_⟩
    simp only [Act.put, List.setIfInBounds_toArray, List.set_cons_zero, List.set_cons_succ]
    refine takeAE (i := 15) (oi := { dst := some 47, op := Op.fieldAddr 76 (Operand.tmp 46) 0, type := 0, pos := "extended.go:31", after := #[{ on := 14, ground := Ground.data }], guard := none }) rfl (by kernel_rfl) (by kernel_rfl) (by kernel_rfl) (fun _ _ _ _ h => nomatch h.1) (by rfl) ?_
    refine ⟨.pointer (some ⟨gq, 0, none⟩), fun w' => exec_field 76 (.tmp 46) 0 rfl _ 0 rfl (fld76_0 _), ?_⟩
    simp only [Act.put, List.setIfInBounds_toArray, List.set_cons_zero, List.set_cons_succ]
    refine takeT (i := 16) (oi := { dst := some 48, op := Op.load 23 (Operand.tmp 47), type := 23, pos := "extended.go:31", after := #[{ on := 15, ground := Ground.data }], guard := none }) (vN x2) rfl (by kernel_rfl) (by kernel_rfl) (by kernel_rfl) (by kernel_rfl) (by kernel_rfl) (fun _ _ _ h => nomatch h.1) (by rfl) (fun w' hk => exec_loadF (.tmp 47) rfl (gq) 0 0 rfl [x2, y2, z2, t2] x2 rfl (RY_54.out.below hk HLT54_2.out) rfl) ?_
    simp only [Act.put, List.setIfInBounds_toArray, List.set_cons_zero, List.set_cons_succ]
    refine eachW [8, 19] (by kernel_rfl) (by simp) ?_
    intro k hk
    simp only [List.mem_cons, List.not_mem_nil, or_false] at hk
    rcases hk with rfl | rfl
    · refine wpOp_call (i := 8) (oi := { dst := some 40, op := Op.call { callee := Callee.value (Operand.func 25), args := #[Operand.tmp 35, Operand.tmp 39], argTypes := #[23, 23] }, type := 23, pos := "extended.go:31", after := #[{ on := 3, ground := Ground.data }, { on := 7, ground := Ground.data }], guard := none }) rfl (by rfl) (exec_callL 25 [.tmp 35, .tmp 39] #[23, 23] rfl [vN x1, vN y2] rfl (CG25 _)) ((C4.out D54).mono ?_)
      rintro e55 W55 ⟨rfl, hb55⟩
      refine ⟨_, rfl, fun _ => hb55.mono HL_54.out, ?_⟩
      have RG_55 := Lib.hid (RG_54.out.keep hb55)
      have RX_55 := Lib.hid (RX_54.out.keep hb55)
      have RY_55 := Lib.hid (RY_54.out.keep hb55)
      have Na27_0_55 := Lib.hid (Na27_0_54.out.keep hb55)
      have Na35_0_55 := Lib.hid (Na35_0_54.out.keep hb55)
      have HF_55 : Hid (Keeps (· = g) w W55) := Lib.hid (HF_54.out.call hb55)
      have HL_55 : Hid (v53.heap.size ≤ W55.heap.size) := Lib.hid (Nat.le_trans HL_54.out hb55.size)
      clear hb55 HL_54 RG_54 RX_54 RY_54 Na27_0_54 Na35_0_54 HF_54
      simp only [Act.put, List.setIfInBounds_toArray, List.set_cons_zero, List.set_cons_succ]
      refine eachW [17, 19] (by kernel_rfl) (by simp) ?_
      intro k hk
      simp only [List.mem_cons, List.not_mem_nil, or_false] at hk
      rcases hk with rfl | rfl
      · refine wpOp_call (i := 17) (oi := { dst := some 49, op := Op.call { callee := Callee.value (Operand.func 25), args := #[Operand.tmp 44, Operand.tmp 48], argTypes := #[23, 23] }, type := 23, pos := "extended.go:31", after := #[{ on := 12, ground := Ground.data }, { on := 16, ground := Ground.data }, { on := 8, ground := Ground.chain }], guard := none }) rfl (by rfl) (exec_callL 25 [.tmp 44, .tmp 48] #[23, 23] rfl [vN y1, vN x2] rfl (CG25 _)) ((C5.out W55).mono ?_)
        rintro e56 W56 ⟨rfl, hb56⟩
        refine ⟨_, rfl, fun _ => hb56.mono HL_55.out, ?_⟩
        have RG_56 := Lib.hid (RG_55.out.keep hb56)
        have RX_56 := Lib.hid (RX_55.out.keep hb56)
        have RY_56 := Lib.hid (RY_55.out.keep hb56)
        have Na27_0_56 := Lib.hid (Na27_0_55.out.keep hb56)
        have Na35_0_56 := Lib.hid (Na35_0_55.out.keep hb56)
        have HF_56 : Hid (Keeps (· = g) w W56) := Lib.hid (HF_55.out.call hb56)
        have HL_56 : Hid (v53.heap.size ≤ W56.heap.size) := Lib.hid (Nat.le_trans HL_55.out hb56.size)
        clear hb56 HL_55 RG_55 RX_55 RY_55 Na27_0_55 Na35_0_55 HF_55
        simp only [Act.put, List.setIfInBounds_toArray, List.set_cons_zero, List.set_cons_succ]
        refine eachW [18, 19] (by kernel_rfl) (by simp) ?_
        intro k hk
        simp only [List.mem_cons, List.not_mem_nil, or_false] at hk
        rcases hk with rfl | rfl
        · refine wpOp_call (i := 18) (oi := { dst := some 50, op := Op.call { callee := Callee.value (Operand.func 19), args := #[Operand.tmp 40, Operand.tmp 49], argTypes := #[23, 23] }, type := 23, pos := "extended.go:31", after := #[{ on := 8, ground := Ground.data }, { on := 17, ground := Ground.data }, { on := 17, ground := Ground.chain }], guard := none }) rfl (by rfl) (exec_callL 19 [.tmp 40, .tmp 49] #[23, 23] rfl [vN a1, vN a2] rfl (CG19 _)) ((C6.out W56).mono ?_)
          rintro e57 W57 ⟨rfl, hb57⟩
          refine ⟨_, rfl, fun _ => hb57.mono HL_56.out, ?_⟩
          have RG_57 := Lib.hid (RG_56.out.keep hb57)
          have RX_57 := Lib.hid (RX_56.out.keep hb57)
          have RY_57 := Lib.hid (RY_56.out.keep hb57)
          have Na27_0_57 := Lib.hid (Na27_0_56.out.keep hb57)
          have Na35_0_57 := Lib.hid (Na35_0_56.out.keep hb57)
          have HF_57 : Hid (Keeps (· = g) w W57) := Lib.hid (HF_56.out.call hb57)
          have HL_57 : Hid (v53.heap.size ≤ W57.heap.size) := Lib.hid (Nat.le_trans HL_56.out hb57.size)
          clear hb57 HL_56 RG_56 RX_56 RY_56 Na27_0_56 Na35_0_56 HF_56
          simp only [Act.put, List.setIfInBounds_toArray, List.set_cons_zero, List.set_cons_succ]
          refine opW _ _ (i := 19) (oi := { dst := some 8, op := Op.alloc 23, type := 0, pos := "extended.go:31", after := #[], guard := none }) rfl (by kernel_rfl) (by rfl) (exec_alloc 23 rfl (.agg (zbs 32)) zero23 W57) (fun _ => (below_alloc W57 _).mono HL_57.out) ?_
          obtain ⟨W58, hW58, hb58, hz58⟩ := alloc_zero W57
          rw [← hW58]
          obtain ⟨g58, hg58⟩ : ∃ g, g = W57.heap.size := ⟨_, rfl⟩
          rw [← hg58] at hz58 ⊢
          have HG58 : Hid (v53.heap.size ≤ g58) := Lib.hid (by rw [hg58]; exact HL_57.out)
          have HX58_7 : Hid (g ≠ g58) := Lib.hid (by have := RG_57.out.lt; omega)
          have HX58_8 : Hid (gp ≠ g58) := Lib.hid (by have := RX_57.out.lt; omega)
          have HX58_9 : Hid (gq ≠ g58) := Lib.hid (by have := RY_57.out.lt; omega)
          have HX58_10 : Hid (a27_0 ≠ g58) := Lib.hid (by have := Na27_0_57.out.lt; omega)
          have HX58_11 : Hid (a35_0 ≠ g58) := Lib.hid (by have := Na35_0_57.out.lt; omega)
          have RG_58 := Lib.hid (RG_57.out.keep hb58)
          have RX_58 := Lib.hid (RX_57.out.keep hb58)
          have RY_58 := Lib.hid (RY_57.out.keep hb58)
          have Na27_0_58 := Lib.hid (Na27_0_57.out.keep hb58)
          have Na35_0_58 := Lib.hid (Na35_0_57.out.keep hb58)
          have HF_58 : Hid (Keeps (· = g) w W58) := Lib.hid (HF_57.out.call hb58)
          have HL_58 : Hid (v53.heap.size ≤ W58.heap.size) := Lib.hid (Nat.le_trans HL_57.out hb58.size)
          have RZ58_58 : Hid (RAt W58 g58 [0]) := Lib.hid (zrow (k := 1) hz58)
          clear hb58 hz58 hg58 hW58 HL_57 RG_57 RX_57 RY_57 Na27_0_57 Na35_0_57 HF_57
          simp only [Act.put, List.setIfInBounds_toArray, List.set_cons_zero, List.set_cons_succ]
          refine storeW_F (i := 20) (oi := { dst := none, op := Op.store 23 (Operand.tmp 8) (Operand.tmp 50), type := 0, pos := "extended.go:31", after := #[{ on := 19, ground := Ground.data }, { on := 18, ground := Ground.data }, { on := 18, ground := Ground.chain }, { on := 0, ground := Ground.phase }, { on := 1, ground := Ground.phase }, { on := 2, ground := Ground.phase }, { on := 3, ground := Ground.phase }, { on := 4, ground := Ground.phase }, { on := 5, ground := Ground.phase }, { on := 6, ground := Ground.phase }, { on := 7, ground := Ground.phase }, { on := 8, ground := Ground.phase }, { on := 9, ground := Ground.phase }, { on := 10, ground := Ground.phase }, { on := 11, ground := Ground.phase }, { on := 12, ground := Ground.phase }, { on := 13, ground := Ground.phase }, { on := 14, ground := Ground.phase }, { on := 15, ground := Ground.phase }, { on := 16, ground := Ground.phase }, { on := 17, ground := Ground.phase }, { on := 18, ground := Ground.phase }, { on := 19, ground := Ground.phase }], guard := none }) rfl (by kernel_rfl) (by rfl) (.tmp 8) (.tmp 50) rfl (g58) 0 0 rfl [0] x rfl rfl RZ58_58.out (show 0 < 1 by omega) rfl ?_
          intro W59 hr59 hg59 hz59
          simp only [Act.put, List.setIfInBounds_toArray, List.set_cons_zero, List.set_cons_succ]
          have RG_59 := Lib.hid (RG_58.out.grown hg59 (by have := HX58_7.out; simp; omega))
          have RX_59 := Lib.hid (RX_58.out.grown hg59 (by have := HX58_8.out; simp; omega))
          have RY_59 := Lib.hid (RY_58.out.grown hg59 (by have := HX58_9.out; simp; omega))
          have Na27_0_59 := Lib.hid (Na27_0_58.out.grown hg59 (by have := HX58_10.out; simp; omega))
          have Na35_0_59 := Lib.hid (Na35_0_58.out.grown hg59 (by have := HX58_11.out; simp; omega))
          have RZ58_59 : Hid (RAt W59 g58 [x]) := Lib.hid hr59
          have HF_59 : Hid (Keeps (· = g) w W59) := Lib.hid (HF_58.out.newrow hg59 (show w.heap.size ≤ g58 from (by have := HG58.out; have := HLO54.out; omega)))
          have HL_59 : Hid (v53.heap.size ≤ W59.heap.size) := Lib.hid (Nat.le_trans HL_58.out hg59.size)
          clear hr59 hg59 hz59 HL_58 RG_58 RX_58 RY_58 Na27_0_58 Na35_0_58 RZ58_58 HF_58
          refine doneW (by kernel_rfl) ⟨rfl, ?_⟩ _
          exact ⟨g58, RG_59.out, RX_59.out, RY_59.out, Na27_0_59.out, Na35_0_59.out, RZ58_59.out, HG58.out, HF_59.out, rfl⟩
        · refine wpOp_value (i := 19) (oi := { dst := some 8, op := Op.alloc 23, type := 0, pos := "extended.go:31", after := #[], guard := none }) rfl (by rfl) (exec_alloc 23 rfl (.agg (zbs 32)) zero23 W56) ⟨fun _ => (below_alloc W56 _).mono HL_56.out, ?_⟩
          obtain ⟨W60, hW60, hb60, hz60⟩ := alloc_zero W56
          rw [← hW60]
          obtain ⟨g60, hg60⟩ : ∃ g, g = W56.heap.size := ⟨_, rfl⟩
          rw [← hg60] at hz60 ⊢
          have HG60 : Hid (v53.heap.size ≤ g60) := Lib.hid (by rw [hg60]; exact HL_56.out)
          have HX60_7 : Hid (g ≠ g60) := Lib.hid (by have := RG_56.out.lt; omega)
          have HX60_8 : Hid (gp ≠ g60) := Lib.hid (by have := RX_56.out.lt; omega)
          have HX60_9 : Hid (gq ≠ g60) := Lib.hid (by have := RY_56.out.lt; omega)
          have HX60_10 : Hid (a27_0 ≠ g60) := Lib.hid (by have := Na27_0_56.out.lt; omega)
          have HX60_11 : Hid (a35_0 ≠ g60) := Lib.hid (by have := Na35_0_56.out.lt; omega)
          have RG_60 := Lib.hid (RG_56.out.keep hb60)
          have RX_60 := Lib.hid (RX_56.out.keep hb60)
          have RY_60 := Lib.hid (RY_56.out.keep hb60)
          have Na27_0_60 := Lib.hid (Na27_0_56.out.keep hb60)
          have Na35_0_60 := Lib.hid (Na35_0_56.out.keep hb60)
          have HF_60 : Hid (Keeps (· = g) w W60) := Lib.hid (HF_56.out.call hb60)
          have HL_60 : Hid (v53.heap.size ≤ W60.heap.size) := Lib.hid (Nat.le_trans HL_56.out hb60.size)
          have RZ60_60 : Hid (RAt W60 g60 [0]) := Lib.hid (zrow (k := 1) hz60)
          clear hb60 hz60 hg60 hW60 HL_56 RG_56 RX_56 RY_56 Na27_0_56 Na35_0_56 HF_56
          simp only [Act.put, List.setIfInBounds_toArray, List.set_cons_zero, List.set_cons_succ]
          refine callW (i := 18) (oi := { dst := some 50, op := Op.call { callee := Callee.value (Operand.func 19), args := #[Operand.tmp 40, Operand.tmp 49], argTypes := #[23, 23] }, type := 23, pos := "extended.go:31", after := #[{ on := 8, ground := Ground.data }, { on := 17, ground := Ground.data }, { on := 17, ground := Ground.chain }], guard := none }) rfl (by kernel_rfl) (by rfl) (exec_callL 19 [.tmp 40, .tmp 49] #[23, 23] rfl [vN a1, vN a2] rfl (CG19 _)) ((C6.out W60).mono ?_)
          rintro e61 W61 ⟨rfl, hb61⟩
          refine ⟨_, rfl, fun _ => hb61.mono HL_60.out, ?_⟩
          have RG_61 := Lib.hid (RG_60.out.keep hb61)
          have RX_61 := Lib.hid (RX_60.out.keep hb61)
          have RY_61 := Lib.hid (RY_60.out.keep hb61)
          have Na27_0_61 := Lib.hid (Na27_0_60.out.keep hb61)
          have Na35_0_61 := Lib.hid (Na35_0_60.out.keep hb61)
          have RZ60_61 := Lib.hid (RZ60_60.out.keep hb61)
          have HF_61 : Hid (Keeps (· = g) w W61) := Lib.hid (HF_60.out.call hb61)
          have HL_61 : Hid (v53.heap.size ≤ W61.heap.size) := Lib.hid (Nat.le_trans HL_60.out hb61.size)
          clear hb61 HL_60 RG_60 RX_60 RY_60 Na27_0_60 Na35_0_60 RZ60_60 HF_60
          simp only [Act.put, List.setIfInBounds_toArray, List.set_cons_zero, List.set_cons_succ]
          refine storeW_F (i := 20) (oi := { dst := none, op := Op.store 23 (Operand.tmp 8) (Operand.tmp 50), type := 0, pos := "extended.go:31", after := #[{ on := 19, ground := Ground.data }, { on := 18, ground := Ground.data }, { on := 18, ground := Ground.chain }, { on := 0, ground := Ground.phase }, { on := 1, ground := Ground.phase }, { on := 2, ground := Ground.phase }, { on := 3, ground := Ground.phase }, { on := 4, ground := Ground.phase }, { on := 5, ground := Ground.phase }, { on := 6, ground := Ground.phase }, { on := 7, ground := Ground.phase }, { on := 8, ground := Ground.phase }, { on := 9, ground := Ground.phase }, { on := 10, ground := Ground.phase }, { on := 11, ground := Ground.phase }, { on := 12, ground := Ground.phase }, { on := 13, ground := Ground.phase }, { on := 14, ground := Ground.phase }, { on := 15, ground := Ground.phase }, { on := 16, ground := Ground.phase }, { on := 17, ground := Ground.phase }, { on := 18, ground := Ground.phase }, { on := 19, ground := Ground.phase }], guard := none }) rfl (by kernel_rfl) (by rfl) (.tmp 8) (.tmp 50) rfl (g60) 0 0 rfl [0] x rfl rfl RZ60_61.out (show 0 < 1 by omega) rfl ?_
          intro W62 hr62 hg62 hz62
          simp only [Act.put, List.setIfInBounds_toArray, List.set_cons_zero, List.set_cons_succ]
          have RG_62 := Lib.hid (RG_61.out.grown hg62 (by have := HX60_7.out; simp; omega))
          have RX_62 := Lib.hid (RX_61.out.grown hg62 (by have := HX60_8.out; simp; omega))
          have RY_62 := Lib.hid (RY_61.out.grown hg62 (by have := HX60_9.out; simp; omega))
          have Na27_0_62 := Lib.hid (Na27_0_61.out.grown hg62 (by have := HX60_10.out; simp; omega))
          have Na35_0_62 := Lib.hid (Na35_0_61.out.grown hg62 (by have := HX60_11.out; simp; omega))
          have RZ60_62 : Hid (RAt W62 g60 [x]) := Lib.hid hr62
          have HF_62 : Hid (Keeps (· = g) w W62) := Lib.hid (HF_61.out.newrow hg62 (show w.heap.size ≤ g60 from (by have := HG60.out; have := HLO54.out; omega)))
          have HL_62 : Hid (v53.heap.size ≤ W62.heap.size) := Lib.hid (Nat.le_trans HL_61.out hg62.size)
          clear hr62 hg62 hz62 HL_61 RG_61 RX_61 RY_61 Na27_0_61 Na35_0_61 RZ60_61 HF_61
          refine doneW (by kernel_rfl) ⟨rfl, ?_⟩ _
          exact ⟨g60, RG_62.out, RX_62.out, RY_62.out, Na27_0_62.out, Na35_0_62.out, RZ60_62.out, HG60.out, HF_62.out, rfl⟩
      · refine wpOp_value (i := 19) (oi := { dst := some 8, op := Op.alloc 23, type := 0, pos := "extended.go:31", after := #[], guard := none }) rfl (by rfl) (exec_alloc 23 rfl (.agg (zbs 32)) zero23 W55) ⟨fun _ => (below_alloc W55 _).mono HL_55.out, ?_⟩
        obtain ⟨W63, hW63, hb63, hz63⟩ := alloc_zero W55
        rw [← hW63]
        obtain ⟨g63, hg63⟩ : ∃ g, g = W55.heap.size := ⟨_, rfl⟩
        rw [← hg63] at hz63 ⊢
        have HG63 : Hid (v53.heap.size ≤ g63) := Lib.hid (by rw [hg63]; exact HL_55.out)
        have HX63_7 : Hid (g ≠ g63) := Lib.hid (by have := RG_55.out.lt; omega)
        have HX63_8 : Hid (gp ≠ g63) := Lib.hid (by have := RX_55.out.lt; omega)
        have HX63_9 : Hid (gq ≠ g63) := Lib.hid (by have := RY_55.out.lt; omega)
        have HX63_10 : Hid (a27_0 ≠ g63) := Lib.hid (by have := Na27_0_55.out.lt; omega)
        have HX63_11 : Hid (a35_0 ≠ g63) := Lib.hid (by have := Na35_0_55.out.lt; omega)
        have RG_63 := Lib.hid (RG_55.out.keep hb63)
        have RX_63 := Lib.hid (RX_55.out.keep hb63)
        have RY_63 := Lib.hid (RY_55.out.keep hb63)
        have Na27_0_63 := Lib.hid (Na27_0_55.out.keep hb63)
        have Na35_0_63 := Lib.hid (Na35_0_55.out.keep hb63)
        have HF_63 : Hid (Keeps (· = g) w W63) := Lib.hid (HF_55.out.call hb63)
        have HL_63 : Hid (v53.heap.size ≤ W63.heap.size) := Lib.hid (Nat.le_trans HL_55.out hb63.size)
        have RZ63_63 : Hid (RAt W63 g63 [0]) := Lib.hid (zrow (k := 1) hz63)
        clear hb63 hz63 hg63 hW63 HL_55 RG_55 RX_55 RY_55 Na27_0_55 Na35_0_55 HF_55
        simp only [Act.put, List.setIfInBounds_toArray, List.set_cons_zero, List.set_cons_succ]
        refine callW (i := 17) (oi := { dst := some 49, op := Op.call { callee := Callee.value (Operand.func 25), args := #[Operand.tmp 44, Operand.tmp 48], argTypes := #[23, 23] }, type := 23, pos := "extended.go:31", after := #[{ on := 12, ground := Ground.data }, { on := 16, ground := Ground.data }, { on := 8, ground := Ground.chain }], guard := none }) rfl (by kernel_rfl) (by rfl) (exec_callL 25 [.tmp 44, .tmp 48] #[23, 23] rfl [vN y1, vN x2] rfl (CG25 _)) ((C5.out W63).mono ?_)
        rintro e64 W64 ⟨rfl, hb64⟩
        refine ⟨_, rfl, fun _ => hb64.mono HL_63.out, ?_⟩
        have RG_64 := Lib.hid (RG_63.out.keep hb64)
        have RX_64 := Lib.hid (RX_63.out.keep hb64)
        have RY_64 := Lib.hid (RY_63.out.keep hb64)
        have Na27_0_64 := Lib.hid (Na27_0_63.out.keep hb64)
        have Na35_0_64 := Lib.hid (Na35_0_63.out.keep hb64)
        have RZ63_64 := Lib.hid (RZ63_63.out.keep hb64)
        have HF_64 : Hid (Keeps (· = g) w W64) := Lib.hid (HF_63.out.call hb64)
        have HL_64 : Hid (v53.heap.size ≤ W64.heap.size) := Lib.hid (Nat.le_trans HL_63.out hb64.size)
        clear hb64 HL_63 RG_63 RX_63 RY_63 Na27_0_63 Na35_0_63 RZ63_63 HF_63
        simp only [Act.put, List.setIfInBounds_toArray, List.set_cons_zero, List.set_cons_succ]
        refine callW (i := 18) (oi := { dst := some 50, op := Op.call { callee := Callee.value (Operand.func 19), args := #[Operand.tmp 40, Operand.tmp 49], argTypes := #[23, 23] }, type := 23, pos := "extended.go:31", after := #[{ on := 8, ground := Ground.data }, { on := 17, ground := Ground.data }, { on := 17, ground := Ground.chain }], guard := none }) rfl (by kernel_rfl) (by rfl) (exec_callL 19 [.tmp 40, .tmp 49] #[23, 23] rfl [vN a1, vN a2] rfl (CG19 _)) ((C6.out W64).mono ?_)
        rintro e65 W65 ⟨rfl, hb65⟩
        refine ⟨_, rfl, fun _ => hb65.mono HL_64.out, ?_⟩
        have RG_65 := Lib.hid (RG_64.out.keep hb65)
        have RX_65 := Lib.hid (RX_64.out.keep hb65)
        have RY_65 := Lib.hid (RY_64.out.keep hb65)
        have Na27_0_65 := Lib.hid (Na27_0_64.out.keep hb65)
        have Na35_0_65 := Lib.hid (Na35_0_64.out.keep hb65)
        have RZ63_65 := Lib.hid (RZ63_64.out.keep hb65)
        have HF_65 : Hid (Keeps (· = g) w W65) := Lib.hid (HF_64.out.call hb65)
        have HL_65 : Hid (v53.heap.size ≤ W65.heap.size) := Lib.hid (Nat.le_trans HL_64.out hb65.size)
        clear hb65 HL_64 RG_64 RX_64 RY_64 Na27_0_64 Na35_0_64 RZ63_64 HF_64
        simp only [Act.put, List.setIfInBounds_toArray, List.set_cons_zero, List.set_cons_succ]
        refine storeW_F (i := 20) (oi := { dst := none, op := Op.store 23 (Operand.tmp 8) (Operand.tmp 50), type := 0, pos := "extended.go:31", after := #[{ on := 19, ground := Ground.data }, { on := 18, ground := Ground.data }, { on := 18, ground := Ground.chain }, { on := 0, ground := Ground.phase }, { on := 1, ground := Ground.phase }, { on := 2, ground := Ground.phase }, { on := 3, ground := Ground.phase }, { on := 4, ground := Ground.phase }, { on := 5, ground := Ground.phase }, { on := 6, ground := Ground.phase }, { on := 7, ground := Ground.phase }, { on := 8, ground := Ground.phase }, { on := 9, ground := Ground.phase }, { on := 10, ground := Ground.phase }, { on := 11, ground := Ground.phase }, { on := 12, ground := Ground.phase }, { on := 13, ground := Ground.phase }, { on := 14, ground := Ground.phase }, { on := 15, ground := Ground.phase }, { on := 16, ground := Ground.phase }, { on := 17, ground := Ground.phase }, { on := 18, ground := Ground.phase }, { on := 19, ground := Ground.phase }], guard := none }) rfl (by kernel_rfl) (by rfl) (.tmp 8) (.tmp 50) rfl (g63) 0 0 rfl [0] x rfl rfl RZ63_65.out (show 0 < 1 by omega) rfl ?_
        intro W66 hr66 hg66 hz66
        simp only [Act.put, List.setIfInBounds_toArray, List.set_cons_zero, List.set_cons_succ]
        have RG_66 := Lib.hid (RG_65.out.grown hg66 (by have := HX63_7.out; simp; omega))
        have RX_66 := Lib.hid (RX_65.out.grown hg66 (by have := HX63_8.out; simp; omega))
        have RY_66 := Lib.hid (RY_65.out.grown hg66 (by have := HX63_9.out; simp; omega))
        have Na27_0_66 := Lib.hid (Na27_0_65.out.grown hg66 (by have := HX63_10.out; simp; omega))
        have Na35_0_66 := Lib.hid (Na35_0_65.out.grown hg66 (by have := HX63_11.out; simp; omega))
        have RZ63_66 : Hid (RAt W66 g63 [x]) := Lib.hid hr66
        have HF_66 : Hid (Keeps (· = g) w W66) := Lib.hid (HF_65.out.newrow hg66 (show w.heap.size ≤ g63 from (by have := HG63.out; have := HLO54.out; omega)))
        have HL_66 : Hid (v53.heap.size ≤ W66.heap.size) := Lib.hid (Nat.le_trans HL_65.out hg66.size)
        clear hr66 hg66 hz66 HL_65 RG_65 RX_65 RY_65 Na27_0_65 Na35_0_65 RZ63_65 HF_65
        refine doneW (by kernel_rfl) ⟨rfl, ?_⟩ _
        exact ⟨g63, RG_66.out, RX_66.out, RY_66.out, Na27_0_66.out, Na35_0_66.out, RZ63_66.out, HG63.out, HF_66.out, rfl⟩
    · refine wpOp_value (i := 19) (oi := { dst := some 8, op := Op.alloc 23, type := 0, pos := "extended.go:31", after := #[], guard := none }) rfl (by rfl) (exec_alloc 23 rfl (.agg (zbs 32)) zero23 D54) ⟨fun _ => (below_alloc D54 _).mono HL_54.out, ?_⟩
      obtain ⟨W67, hW67, hb67, hz67⟩ := alloc_zero D54
      rw [← hW67]
      obtain ⟨g67, hg67⟩ : ∃ g, g = D54.heap.size := ⟨_, rfl⟩
      rw [← hg67] at hz67 ⊢
      have HG67 : Hid (v53.heap.size ≤ g67) := Lib.hid (by rw [hg67]; exact HL_54.out)
      have HX67_7 : Hid (g ≠ g67) := Lib.hid (by have := RG_54.out.lt; omega)
      have HX67_8 : Hid (gp ≠ g67) := Lib.hid (by have := RX_54.out.lt; omega)
      have HX67_9 : Hid (gq ≠ g67) := Lib.hid (by have := RY_54.out.lt; omega)
      have HX67_10 : Hid (a27_0 ≠ g67) := Lib.hid (by have := Na27_0_54.out.lt; omega)
      have HX67_11 : Hid (a35_0 ≠ g67) := Lib.hid (by have := Na35_0_54.out.lt; omega)
      have RG_67 := Lib.hid (RG_54.out.keep hb67)
      have RX_67 := Lib.hid (RX_54.out.keep hb67)
      have RY_67 := Lib.hid (RY_54.out.keep hb67)
      have Na27_0_67 := Lib.hid (Na27_0_54.out.keep hb67)
      have Na35_0_67 := Lib.hid (Na35_0_54.out.keep hb67)
      have HF_67 : Hid (Keeps (· = g) w W67) := Lib.hid (HF_54.out.call hb67)
      have HL_67 : Hid (v53.heap.size ≤ W67.heap.size) := Lib.hid (Nat.le_trans HL_54.out hb67.size)
      have RZ67_67 : Hid (RAt W67 g67 [0]) := Lib.hid (zrow (k := 1) hz67)
      clear hb67 hz67 hg67 hW67 HL_54 RG_54 RX_54 RY_54 Na27_0_54 Na35_0_54 HF_54
      simp only [Act.put, List.setIfInBounds_toArray, List.set_cons_zero, List.set_cons_succ]
      refine callW (i := 8) (oi := { dst := some 40, op := Op.call { callee := Callee.value (Operand.func 25), args := #[Operand.tmp 35, Operand.tmp 39], argTypes := #[23, 23] }, type := 23, pos := "extended.go:31", after := #[{ on := 3, ground := Ground.data }, { on := 7, ground := Ground.data }], guard := none }) rfl (by kernel_rfl) (by rfl) (exec_callL 25 [.tmp 35, .tmp 39] #[23, 23] rfl [vN x1, vN y2] rfl (CG25 _)) ((C4.out W67).mono ?_)
      rintro e68 W68 ⟨rfl, hb68⟩
      refine ⟨_, rfl, fun _ => hb68.mono HL_67.out, ?_⟩
      have RG_68 := Lib.hid (RG_67.out.keep hb68)
      have RX_68 := Lib.hid (RX_67.out.keep hb68)
      have RY_68 := Lib.hid (RY_67.out.keep hb68)
      have Na27_0_68 := Lib.hid (Na27_0_67.out.keep hb68)
      have Na35_0_68 := Lib.hid (Na35_0_67.out.keep hb68)
      have RZ67_68 := Lib.hid (RZ67_67.out.keep hb68)
      have HF_68 : Hid (Keeps (· = g) w W68) := Lib.hid (HF_67.out.call hb68)
      have HL_68 : Hid (v53.heap.size ≤ W68.heap.size) := Lib.hid (Nat.le_trans HL_67.out hb68.size)
      clear hb68 HL_67 RG_67 RX_67 RY_67 Na27_0_67 Na35_0_67 RZ67_67 HF_67
      simp only [Act.put, List.setIfInBounds_toArray, List.set_cons_zero, List.set_cons_succ]
      refine callW (i := 17) (oi := { dst := some 49, op := Op.call { callee := Callee.value (Operand.func 25), args := #[Operand.tmp 44, Operand.tmp 48], argTypes := #[23, 23] }, type := 23, pos := "extended.go:31", after := #[{ on := 12, ground := Ground.data }, { on := 16, ground := Ground.data }, { on := 8, ground := Ground.chain }], guard := none }) rfl (by kernel_rfl) (by rfl) (exec_callL 25 [.tmp 44, .tmp 48] #[23, 23] rfl [vN y1, vN x2] rfl (CG25 _)) ((C5.out W68).mono ?_)
      rintro e69 W69 ⟨rfl, hb69⟩
      refine ⟨_, rfl, fun _ => hb69.mono HL_68.out, ?_⟩
      have RG_69 := Lib.hid (RG_68.out.keep hb69)
      have RX_69 := Lib.hid (RX_68.out.keep hb69)
      have RY_69 := Lib.hid (RY_68.out.keep hb69)
      have Na27_0_69 := Lib.hid (Na27_0_68.out.keep hb69)
      have Na35_0_69 := Lib.hid (Na35_0_68.out.keep hb69)
      have RZ67_69 := Lib.hid (RZ67_68.out.keep hb69)
      have HF_69 : Hid (Keeps (· = g) w W69) := Lib.hid (HF_68.out.call hb69)
      have HL_69 : Hid (v53.heap.size ≤ W69.heap.size) := Lib.hid (Nat.le_trans HL_68.out hb69.size)
      clear hb69 HL_68 RG_68 RX_68 RY_68 Na27_0_68 Na35_0_68 RZ67_68 HF_68
      simp only [Act.put, List.setIfInBounds_toArray, List.set_cons_zero, List.set_cons_succ]
      refine callW (i := 18) (oi := { dst := some 50, op := Op.call { callee := Callee.value (Operand.func 19), args := #[Operand.tmp 40, Operand.tmp 49], argTypes := #[23, 23] }, type := 23, pos := "extended.go:31", after := #[{ on := 8, ground := Ground.data }, { on := 17, ground := Ground.data }, { on := 17, ground := Ground.chain }], guard := none }) rfl (by kernel_rfl) (by rfl) (exec_callL 19 [.tmp 40, .tmp 49] #[23, 23] rfl [vN a1, vN a2] rfl (CG19 _)) ((C6.out W69).mono ?_)
      rintro e70 W70 ⟨rfl, hb70⟩
      refine ⟨_, rfl, fun _ => hb70.mono HL_69.out, ?_⟩
      have RG_70 := Lib.hid (RG_69.out.keep hb70)
      have RX_70 := Lib.hid (RX_69.out.keep hb70)
      have RY_70 := Lib.hid (RY_69.out.keep hb70)
      have Na27_0_70 := Lib.hid (Na27_0_69.out.keep hb70)
      have Na35_0_70 := Lib.hid (Na35_0_69.out.keep hb70)
      have RZ67_70 := Lib.hid (RZ67_69.out.keep hb70)
      have HF_70 : Hid (Keeps (· = g) w W70) := Lib.hid (HF_69.out.call hb70)
      have HL_70 : Hid (v53.heap.size ≤ W70.heap.size) := Lib.hid (Nat.le_trans HL_69.out hb70.size)
      clear hb70 HL_69 RG_69 RX_69 RY_69 Na27_0_69 Na35_0_69 RZ67_69 HF_69
      simp only [Act.put, List.setIfInBounds_toArray, List.set_cons_zero, List.set_cons_succ]
      refine storeW_F (i := 20) (oi := { dst := none, op := Op.store 23 (Operand.tmp 8) (Operand.tmp 50), type := 0, pos := "extended.go:31", after := #[{ on := 19, ground := Ground.data }, { on := 18, ground := Ground.data }, { on := 18, ground := Ground.chain }, { on := 0, ground := Ground.phase }, { on := 1, ground := Ground.phase }, { on := 2, ground := Ground.phase }, { on := 3, ground := Ground.phase }, { on := 4, ground := Ground.phase }, { on := 5, ground := Ground.phase }, { on := 6, ground := Ground.phase }, { on := 7, ground := Ground.phase }, { on := 8, ground := Ground.phase }, { on := 9, ground := Ground.phase }, { on := 10, ground := Ground.phase }, { on := 11, ground := Ground.phase }, { on := 12, ground := Ground.phase }, { on := 13, ground := Ground.phase }, { on := 14, ground := Ground.phase }, { on := 15, ground := Ground.phase }, { on := 16, ground := Ground.phase }, { on := 17, ground := Ground.phase }, { on := 18, ground := Ground.phase }, { on := 19, ground := Ground.phase }], guard := none }) rfl (by kernel_rfl) (by rfl) (.tmp 8) (.tmp 50) rfl (g67) 0 0 rfl [0] x rfl rfl RZ67_70.out (show 0 < 1 by omega) rfl ?_
      intro W71 hr71 hg71 hz71
      simp only [Act.put, List.setIfInBounds_toArray, List.set_cons_zero, List.set_cons_succ]
      have RG_71 := Lib.hid (RG_70.out.grown hg71 (by have := HX67_7.out; simp; omega))
      have RX_71 := Lib.hid (RX_70.out.grown hg71 (by have := HX67_8.out; simp; omega))
      have RY_71 := Lib.hid (RY_70.out.grown hg71 (by have := HX67_9.out; simp; omega))
      have Na27_0_71 := Lib.hid (Na27_0_70.out.grown hg71 (by have := HX67_10.out; simp; omega))
      have Na35_0_71 := Lib.hid (Na35_0_70.out.grown hg71 (by have := HX67_11.out; simp; omega))
      have RZ67_71 : Hid (RAt W71 g67 [x]) := Lib.hid hr71
      have HF_71 : Hid (Keeps (· = g) w W71) := Lib.hid (HF_70.out.newrow hg71 (show w.heap.size ≤ g67 from (by have := HG67.out; have := HLO54.out; omega)))
      have HL_71 : Hid (v53.heap.size ≤ W71.heap.size) := Lib.hid (Nat.le_trans HL_70.out hg71.size)
      clear hr71 hg71 hz71 HL_70 RG_70 RX_70 RY_70 Na27_0_70 Na35_0_70 RZ67_70 HF_70
      refine doneW (by kernel_rfl) ⟨rfl, ?_⟩ _
      exact ⟨g67, RG_71.out, RX_71.out, RY_71.out, Na27_0_71.out, Na35_0_71.out, RZ67_71.out, HG67.out, HF_71.out, rfl⟩
  rintro a' v72 ⟨a54_0, h0, h1, h2, h3, h4, h5, k0, hF, rfl⟩
  have RG_72 := Lib.hid h0
  have RX_72 := Lib.hid h1
  have RY_72 := Lib.hid h2
  have Na27_0_72 := Lib.hid h3
  have Na35_0_72 := Lib.hid h4
  have Na54_0_72 := Lib.hid h5
  have HNE72_7 : Hid (g ≠ a54_0) := Lib.hid (by have := HLT54_0.out; omega)
  have HNE72_8 : Hid (gp ≠ a54_0) := Lib.hid (by have := HLT54_1.out; omega)
  have HNE72_9 : Hid (gq ≠ a54_0) := Lib.hid (by have := HLT54_2.out; omega)
  have HNE72_10 : Hid (a27_0 ≠ a54_0) := Lib.hid (by have := HLT54_3.out; omega)
  have HNE72_11 : Hid (a35_0 ≠ a54_0) := Lib.hid (by have := HLT54_4.out; omega)
  have HGE72_0 : Hid (w.heap.size ≤ a54_0) := Lib.hid (by have := HLO54.out; omega)
  have HF_72 := Lib.hid hF
  clear h0 h1 h2 h3 h4 h5 k0 hF HLT54_0 HLT54_1 HLT54_2 HLT54_3 HLT54_4 HLO54 RG_53 RX_53 RY_53 Na27_0_53 Na35_0_53 HF_53
  go_wp2_with fail
  have HLT73_0 : Hid (g < v72.heap.size) := Lib.hid RG_72.out.lt
  have HLT73_1 : Hid (gp < v72.heap.size) := Lib.hid RX_72.out.lt
  have HLT73_2 : Hid (gq < v72.heap.size) := Lib.hid RY_72.out.lt
  have HLT73_3 : Hid (a27_0 < v72.heap.size) := Lib.hid Na27_0_72.out.lt
  have HLT73_4 : Hid (a35_0 < v72.heap.size) := Lib.hid Na35_0_72.out.lt
  have HLT73_5 : Hid (a54_0 < v72.heap.size) := Lib.hid Na54_0_72.out.lt
  have HLO73 : Hid (w.heap.size ≤ v72.heap.size) := Lib.hid HF_72.out.size
  refine region_split (fun a' W => ∃ a73_0, RAt W g [r0, r1, r2, r3] ∧ RAt W gp [x1, y1, z1, t1] ∧ RAt W gq [x2, y2, z2, t2] ∧ RAt W a27_0 [one] ∧ RAt W a35_0 [d] ∧ RAt W a54_0 [x] ∧ RAt W a73_0 [y] ∧ v72.heap.size ≤ a73_0 ∧ Keeps (· = g) w W ∧ a' = ⟨#[.pointer (some ⟨g, 0, none⟩), .pointer (some ⟨gp, 0, none⟩), .pointer (some ⟨gq, 0, none⟩), undef, undef, undef, .pointer (some ⟨a27_0, 0, none⟩), .pointer (some ⟨a35_0, 0, none⟩), .pointer (some ⟨a54_0, 0, none⟩), .pointer (some ⟨a73_0, 0, none⟩), undef, undef, .pointer (some ⟨gp, 0, none⟩), .pointer (some ⟨gp, 0, none⟩), .pointer (some ⟨gp, 64, none⟩), vN z1, .pointer (some ⟨gq, 0, none⟩), .pointer (some ⟨gq, 0, none⟩), .pointer (some ⟨gq, 64, none⟩), vN z2, vN one, vN dd, .pointer (some ⟨gp, 0, none⟩), .pointer (some ⟨gp, 0, none⟩), .pointer (some ⟨gp, 96, none⟩), vN t1, .pointer (some ⟨gq, 0, none⟩), .pointer (some ⟨gq, 0, none⟩), .pointer (some ⟨gq, 96, none⟩), vN t2, vN tt, vN d, .pointer (some ⟨gp, 0, none⟩), .pointer (some ⟨gp, 0, none⟩), .pointer (some ⟨gp, 0, none⟩), vN x1, .pointer (some ⟨gq, 0, none⟩), .pointer (some ⟨gq, 0, none⟩), .pointer (some ⟨gq, 32, none⟩), vN y2, vN a1, .pointer (some ⟨gp, 0, none⟩), .pointer (some ⟨gp, 0, none⟩), .pointer (some ⟨gp, 32, none⟩), vN y1, .pointer (some ⟨gq, 0, none⟩), .pointer (some ⟨gq, 0, none⟩), .pointer (some ⟨gq, 0, none⟩), vN x2, vN a2, vN x, .pointer (some ⟨gp, 0, none⟩), .pointer (some ⟨gp, 0, none⟩), .pointer (some ⟨gp, 32, none⟩), vN y1, .pointer (some ⟨gq, 0, none⟩), .pointer (some ⟨gq, 0, none⟩), .pointer (some ⟨gq, 32, none⟩), vN y2, vN b1, .pointer (some ⟨gp, 0, none⟩), .pointer (some ⟨gp, 0, none⟩), .pointer (some ⟨gp, 0, none⟩), vN x1, .pointer (some ⟨gq, 0, none⟩), .pointer (some ⟨gq, 0, none⟩), .pointer (some ⟨gq, 0, none⟩), vN x2, vN b2, vN y, undef, undef, undef, undef, undef, undef, undef, undef], []⟩) ?_ ?_
  · refine startW (fun j => j == 20) (v72.heap.size) (by kernel_rfl) ?_
    obtain ⟨D73, hD73⟩ : ∃ D, D = v72.drew := ⟨_, rfl⟩
    rw [← hD73]
    have HL_73 : Hid (v72.heap.size ≤ D73.heap.size) := Lib.hid (by rw [hD73]; exact Nat.le_refl _)
    have RG_73 : Hid (RAt D73 g [r0, r1, r2, r3]) := Lib.hid (by rw [hD73]; exact RG_72.out)
    have RX_73 : Hid (RAt D73 gp [x1, y1, z1, t1]) := Lib.hid (by rw [hD73]; exact RX_72.out)
    have RY_73 : Hid (RAt D73 gq [x2, y2, z2, t2]) := Lib.hid (by rw [hD73]; exact RY_72.out)
    have Na27_0_73 : Hid (RAt D73 a27_0 [one]) := Lib.hid (by rw [hD73]; exact Na27_0_72.out)
    have Na35_0_73 : Hid (RAt D73 a35_0 [d]) := Lib.hid (by rw [hD73]; exact Na35_0_72.out)
    have Na54_0_73 : Hid (RAt D73 a54_0 [x]) := Lib.hid (by rw [hD73]; exact Na54_0_72.out)
    have HF_73 : Hid (Keeps (· = g) w D73) := Lib.hid (by rw [hD73]; exact drew_rel HF_72.out)
    clear hD73 RG_72 RX_72 RY_72 Na27_0_72 Na35_0_72 Na54_0_72 HF_72
    refine takeAE (i := 0) (oi := { dst := some 51, op := Op.move (Operand.tmp 1), type := 80, pos := "extended.go:32", after := #[], guard := none }) rfl (by kernel_rfl) (by kernel_rfl) (by kernel_rfl) (fun _ _ _ _ h => nomatch h.1) (by rfl) ?_
    refine ⟨.pointer (some ⟨gp, 0, none⟩), fun w' => exec_move (.tmp 1) rfl _ rfl, ?_⟩
    simp only [Act.put, List.setIfInBounds_toArray, List.set_cons_zero, List.set_cons_succ]
    refine takeAE (i := 1) (oi := { dst := some 52, op := Op.nilCheck (Operand.tmp 51), type := 0, pos := "extended.go:32", after := #[{ on := 0, ground := Ground.data }], guard := none }) rfl (by kernel_rfl) (by kernel_rfl) (by kernel_rfl) (fun _ _ _ _ h => nomatch h.1) (by rfl) ?_
    refine ⟨.pointer (some ⟨gp, 0, none⟩), fun w' => exec_nil (.tmp 51) rfl _ rfl, ?_⟩
    simp only [Act.put, List.setIfInBounds_toArray, List.set_cons_zero, List.set_cons_succ]
    refine takeAE (i := 2) (oi := { dst := some 53, op := Op.fieldAddr 76 (Operand.tmp 52) 1, type := 0, pos := "extended.go:32", after := #[{ on := 1, ground := Ground.data }], guard := none }) rfl (by kernel_rfl) (by kernel_rfl) (by kernel_rfl) (fun _ _ _ _ h => nomatch h.1) (by rfl) ?_
    refine ⟨.pointer (some ⟨gp, 32, none⟩), fun w' => exec_field 76 (.tmp 52) 1 rfl _ 32 rfl (fld76_1 _), ?_⟩
    simp only [Act.put, List.setIfInBounds_toArray, List.set_cons_zero, List.set_cons_succ]
    refine takeT (i := 3) (oi := { dst := some 54, op := Op.load 23 (Operand.tmp 53), type := 23, pos := "extended.go:32", after := #[{ on := 2, ground := Ground.data }], guard := none }) (vN y1) rfl (by kernel_rfl) (by kernel_rfl) (by kernel_rfl) (by kernel_rfl) (by kernel_rfl) (fun _ _ _ h => nomatch h.1) (by rfl) (fun w' hk => exec_loadF (.tmp 53) rfl (gp) 1 32 rfl [x1, y1, z1, t1] y1 rfl (RX_73.out.below hk HLT73_1.out) rfl) ?_
    simp only [Act.put, List.setIfInBounds_toArray, List.set_cons_zero, List.set_cons_succ]
    refine takeAE (i := 4) (oi := { dst := some 55, op := Op.move (Operand.tmp 2), type := 80, pos := "extended.go:32", after := #[], guard := none }) rfl (by kernel_rfl) (by kernel_rfl) (by kernel_rfl) (fun _ _ _ _ h => nomatch h.1) (by rfl) ?_
    refine ⟨.pointer (some ⟨gq, 0, none⟩), fun w' => exec_move (.tmp 2) rfl _ rfl, ?_⟩
    simp only [Act.put, List.setIfInBounds_toArray, List.set_cons_zero, List.set_cons_succ]
    refine takeAE (i := 5) (oi := { dst := some 56, op := Op.nilCheck (Operand.tmp 55), type := 0, pos := "extended.go:32", after := #[{ on := 4, ground := Ground.data }], guard := none }) rfl (by kernel_rfl) (by kernel_rfl) (by kernel_rfl) (fun _ _ _ _ h => nomatch h.1) (by rfl) ?_
    refine ⟨.pointer (some ⟨gq, 0, none⟩), fun w' => exec_nil (.tmp 55) rfl _ rfl, ?_⟩
    simp only [Act.put, List.setIfInBounds_toArray, List.set_cons_zero, List.set_cons_succ]
    refine takeAE (i := 6) (oi := { dst := some 57, op := Op.fieldAddr 76 (Operand.tmp 56) 1, type := 0, pos := "extended.go:32", after := #[{ on := 5, ground := Ground.data }], guard := none }) rfl (by kernel_rfl) (by kernel_rfl) (by kernel_rfl) (fun _ _ _ _ h => nomatch h.1) (by rfl) ?_
    refine ⟨.pointer (some ⟨gq, 32, none⟩), fun w' => exec_field 76 (.tmp 56) 1 rfl _ 32 rfl (fld76_1 _), ?_⟩
    simp only [Act.put, List.setIfInBounds_toArray, List.set_cons_zero, List.set_cons_succ]
    refine takeT (i := 7) (oi := { dst := some 58, op := Op.load 23 (Operand.tmp 57), type := 23, pos := "extended.go:32", after := #[{ on := 6, ground := Ground.data }], guard := none }) (vN y2) rfl (by kernel_rfl) (by kernel_rfl) (by kernel_rfl) (by kernel_rfl) (by kernel_rfl) (fun _ _ _ h => nomatch h.1) (by rfl) (fun w' hk => exec_loadF (.tmp 57) rfl (gq) 1 32 rfl [x2, y2, z2, t2] y2 rfl (RY_73.out.below hk HLT73_2.out) rfl) ?_
    simp only [Act.put, List.setIfInBounds_toArray, List.set_cons_zero, List.set_cons_succ]
    refine takeAE (i := 9) (oi := { dst := some 60, op := Op.move (Operand.tmp 1), type := 80, pos := "extended.go:32", after := #[], guard := none }) rfl (by kernel_rfl) (by kernel_rfl) (by kernel_rfl) (fun _ _ _ _ h => nomatch h.1) (by rfl) ?_
    refine ⟨.pointer (some ⟨gp, 0, none⟩), fun w' => exec_move (.tmp 1) rfl _ rfl, ?_⟩
    simp only [Act.put, List.setIfInBounds_toArray, List.set_cons_zero, List.set_cons_succ]
    refine takeAE (i := 10) (oi := { dst := some 61, op := Op.nilCheck (Operand.tmp 60), type := 0, pos := "extended.go:32", after := #[{ on := 9, ground := Ground.data }], guard := none }) rfl (by kernel_rfl) (by kernel_rfl) (by kernel_rfl) (fun _ _ _ _ h => nomatch h.1) (by rfl) ?_
    refine ⟨.pointer (some ⟨gp, 0, none⟩), fun w' => exec_nil (.tmp 60) rfl _ rfl, ?_⟩
    simp only [Act.put, List.setIfInBounds_toArray, List.set_cons_zero, List.set_cons_succ]
    refine takeAE (i := 11) (oi := { dst := some 62, op := Op.fieldAddr 76 (Operand.tmp 61) 0, type := 0, pos := "extended.go:32", after := #[{ on := 10, ground := Ground.data }], guard := none }) rfl (by kernel_rfl) (by kernel_rfl) (by kernel_rfl) (fun _ _ _ _ h => nomatch h.1) (by rfl) ?_
    refine ⟨.pointer (some ⟨gp, 0, none⟩), fun w' => exec_field 76 (.tmp 61) 0 rfl _ 0 rfl (fld76_0 _), ?_⟩
    simp only [Act.put, List.setIfInBounds_toArray, List.set_cons_zero, List.set_cons_succ]
    refine takeT (i := 12) (oi := { dst := some 63, op := Op.load 23 (Operand.tmp 62), type := 23, pos := "extended.go:32", after := #[{ on := 11, ground := Ground.data }], guard := none }) (vN x1) rfl (by kernel_rfl) (by kernel_rfl) (by kernel_rfl) (by kernel_rfl) (by kernel_rfl) (fun _ _ _ h => nomatch h.1) (by rfl) (fun w' hk => exec_loadF (.tmp 62) rfl (gp) 0 0 rfl [x1, y1, z1, t1] x1 rfl (RX_73.out.below hk HLT73_1.out) rfl) ?_
    simp only [Act.put, List.setIfInBounds_toArray, List.set_cons_zero, List.set_cons_succ]
    refine takeAE (i := 13) (oi := { dst := some 64, op := Op.move (Operand.tmp 2), type := 80, pos := "extended.go:32", after := #[], guard := none }) rfl (by kernel_rfl) (by kernel_rfl) (by kernel_rfl) (fun _ _ _ _ h => nomatch h.1) (by rfl) ?_
    refine ⟨.pointer (some ⟨gq, 0, none⟩), fun w' => exec_move (.tmp 2) rfl _ rfl, ?_⟩
    simp only [Act.put, List.setIfInBounds_toArray, List.set_cons_zero, List.set_cons_succ]
    refine takeAE (i := 14) (oi := { dst := some 65, op := Op.nilCheck (Operand.tmp 64), type := 0, pos := "extended.go:32", after := #[{ on := 13, ground := Ground.data }], guard := none }) rfl (by kernel_rfl) (by kernel_rfl) (by kernel_rfl) (fun _ _ _ _ h => nomatch h.1) (by rfl) ?_
    refine ⟨.pointer (some ⟨gq, 0, none⟩), fun w' => exec_nil (.tmp 64) rfl _ rfl, ?_⟩
    simp only [Act.put, List.setIfInBounds_toArray, List.set_cons_zero, List.set_cons_succ]
    refine takeAE (i := 15) (oi := { dst := some 66, op := Op.fieldAddr 76 (Operand.tmp 65) 0, type := 0, pos := "extended.go:32", after := #[{ on := 14, ground := Ground.data }], guard := none }) rfl (by kernel_rfl) (by kernel_rfl) (by kernel_rfl) (fun _ _ _ _ h => nomatch h.1) (by rfl) ?_
    refine ⟨.pointer (some ⟨gq, 0, none⟩), fun w' => exec_field 76 (.tmp 65) 0 rfl _ 0 rfl (fld76_0 _), ?_⟩
    simp only [Act.put, List.setIfInBounds_toArray, List.set_cons_zero, List.set_cons_succ]
    refine takeT (i := 16) (oi := { dst := some 67, op := Op.load 23 (Operand.tmp 66), type := 23, pos := "extended.go:32", after := #[{ on := 15, ground := Ground.data }], guard := none }) (vN x2) rfl (by kernel_rfl) (by kernel_rfl) (by kernel_rfl) (by kernel_rfl) (by kernel_rfl) (fun _ _ _ h => nomatch h.1) (by rfl) (fun w' hk => exec_loadF (.tmp 66) rfl (gq) 0 0 rfl [x2, y2, z2, t2] x2 rfl (RY_73.out.below hk HLT73_2.out) rfl) ?_
    simp only [Act.put, List.setIfInBounds_toArray, List.set_cons_zero, List.set_cons_succ]
    refine eachW [8, 19] (by kernel_rfl) (by simp) ?_
    intro k hk
    simp only [List.mem_cons, List.not_mem_nil, or_false] at hk
    rcases hk with rfl | rfl
    · refine wpOp_call (i := 8) (oi := { dst := some 59, op := Op.call { callee := Callee.value (Operand.func 25), args := #[Operand.tmp 54, Operand.tmp 58], argTypes := #[23, 23] }, type := 23, pos := "extended.go:32", after := #[{ on := 3, ground := Ground.data }, { on := 7, ground := Ground.data }], guard := none }) rfl (by rfl) (exec_callL 25 [.tmp 54, .tmp 58] #[23, 23] rfl [vN y1, vN y2] rfl (CG25 _)) ((C7.out D73).mono ?_)
      rintro e74 W74 ⟨rfl, hb74⟩
      refine ⟨_, rfl, fun _ => hb74.mono HL_73.out, ?_⟩
      have RG_74 := Lib.hid (RG_73.out.keep hb74)
      have RX_74 := Lib.hid (RX_73.out.keep hb74)
      have RY_74 := Lib.hid (RY_73.out.keep hb74)
      have Na27_0_74 := Lib.hid (Na27_0_73.out.keep hb74)
      have Na35_0_74 := Lib.hid (Na35_0_73.out.keep hb74)
      have Na54_0_74 := Lib.hid (Na54_0_73.out.keep hb74)
      have HF_74 : Hid (Keeps (· = g) w W74) := Lib.hid (HF_73.out.call hb74)
      have HL_74 : Hid (v72.heap.size ≤ W74.heap.size) := Lib.hid (Nat.le_trans HL_73.out hb74.size)
      clear hb74 HL_73 RG_73 RX_73 RY_73 Na27_0_73 Na35_0_73 Na54_0_73 HF_73
      simp only [Act.put, List.setIfInBounds_toArray, List.set_cons_zero, List.set_cons_succ]
      refine eachW [17, 19] (by kernel_rfl) (by simp) ?_
      intro k hk
      simp only [List.mem_cons, List.not_mem_nil, or_false] at hk
      rcases hk with rfl | rfl
      · refine wpOp_call (i := 17) (oi := { dst := some 68, op := Op.call { callee := Callee.value (Operand.func 25), args := #[Operand.tmp 63, Operand.tmp 67], argTypes := #[23, 23] }, type := 23, pos := "extended.go:32", after := #[{ on := 12, ground := Ground.data }, { on := 16, ground := Ground.data }, { on := 8, ground := Ground.chain }], guard := none }) rfl (by rfl) (exec_callL 25 [.tmp 63, .tmp 67] #[23, 23] rfl [vN x1, vN x2] rfl (CG25 _)) ((C8.out W74).mono ?_)
        rintro e75 W75 ⟨rfl, hb75⟩
        refine ⟨_, rfl, fun _ => hb75.mono HL_74.out, ?_⟩
        have RG_75 := Lib.hid (RG_74.out.keep hb75)
        have RX_75 := Lib.hid (RX_74.out.keep hb75)
        have RY_75 := Lib.hid (RY_74.out.keep hb75)
        have Na27_0_75 := Lib.hid (Na27_0_74.out.keep hb75)
        have Na35_0_75 := Lib.hid (Na35_0_74.out.keep hb75)
        have Na54_0_75 := Lib.hid (Na54_0_74.out.keep hb75)
        have HF_75 : Hid (Keeps (· = g) w W75) := Lib.hid (HF_74.out.call hb75)
        have HL_75 : Hid (v72.heap.size ≤ W75.heap.size) := Lib.hid (Nat.le_trans HL_74.out hb75.size)
        clear hb75 HL_74 RG_74 RX_74 RY_74 Na27_0_74 Na35_0_74 Na54_0_74 HF_74
        simp only [Act.put, List.setIfInBounds_toArray, List.set_cons_zero, List.set_cons_succ]
        refine eachW [18, 19] (by kernel_rfl) (by simp) ?_
        intro k hk
        simp only [List.mem_cons, List.not_mem_nil, or_false] at hk
        rcases hk with rfl | rfl
        · refine wpOp_call (i := 18) (oi := { dst := some 69, op := Op.call { callee := Callee.value (Operand.func 19), args := #[Operand.tmp 59, Operand.tmp 68], argTypes := #[23, 23] }, type := 23, pos := "extended.go:32", after := #[{ on := 8, ground := Ground.data }, { on := 17, ground := Ground.data }, { on := 17, ground := Ground.chain }], guard := none }) rfl (by rfl) (exec_callL 19 [.tmp 59, .tmp 68] #[23, 23] rfl [vN b1, vN b2] rfl (CG19 _)) ((C9.out W75).mono ?_)
          rintro e76 W76 ⟨rfl, hb76⟩
          refine ⟨_, rfl, fun _ => hb76.mono HL_75.out, ?_⟩
          have RG_76 := Lib.hid (RG_75.out.keep hb76)
          have RX_76 := Lib.hid (RX_75.out.keep hb76)
          have RY_76 := Lib.hid (RY_75.out.keep hb76)
          have Na27_0_76 := Lib.hid (Na27_0_75.out.keep hb76)
          have Na35_0_76 := Lib.hid (Na35_0_75.out.keep hb76)
          have Na54_0_76 := Lib.hid (Na54_0_75.out.keep hb76)
          have HF_76 : Hid (Keeps (· = g) w W76) := Lib.hid (HF_75.out.call hb76)
          have HL_76 : Hid (v72.heap.size ≤ W76.heap.size) := Lib.hid (Nat.le_trans HL_75.out hb76.size)
          clear hb76 HL_75 RG_75 RX_75 RY_75 Na27_0_75 Na35_0_75 Na54_0_75 HF_75
          simp only [Act.put, List.setIfInBounds_toArray, List.set_cons_zero, List.set_cons_succ]
          refine opW _ _ (i := 19) (oi := { dst := some 9, op := Op.alloc 23, type := 0, pos := "extended.go:32", after := #[], guard := none }) rfl (by kernel_rfl) (by rfl) (exec_alloc 23 rfl (.agg (zbs 32)) zero23 W76) (fun _ => (below_alloc W76 _).mono HL_76.out) ?_
          obtain ⟨W77, hW77, hb77, hz77⟩ := alloc_zero W76
          rw [← hW77]
          obtain ⟨g77, hg77⟩ : ∃ g, g = W76.heap.size := ⟨_, rfl⟩
          rw [← hg77] at hz77 ⊢
          have HG77 : Hid (v72.heap.size ≤ g77) := Lib.hid (by rw [hg77]; exact HL_76.out)
          have HX77_12 : Hid (g ≠ g77) := Lib.hid (by have := RG_76.out.lt; omega)
          have HX77_13 : Hid (gp ≠ g77) := Lib.hid (by have := RX_76.out.lt; omega)
          have HX77_14 : Hid (gq ≠ g77) := Lib.hid (by have := RY_76.out.lt; omega)
          have HX77_15 : Hid (a27_0 ≠ g77) := Lib.hid (by have := Na27_0_76.out.lt; omega)
          have HX77_16 : Hid (a35_0 ≠ g77) := Lib.hid (by have := Na35_0_76.out.lt; omega)
          have HX77_17 : Hid (a54_0 ≠ g77) := Lib.hid (by have := Na54_0_76.out.lt; omega)
          have RG_77 := Lib.hid (RG_76.out.keep hb77)
          have RX_77 := Lib.hid (RX_76.out.keep hb77)
          have RY_77 := Lib.hid (RY_76.out.keep hb77)
          have Na27_0_77 := Lib.hid (Na27_0_76.out.keep hb77)
          have Na35_0_77 := Lib.hid (Na35_0_76.out.keep hb77)
          have Na54_0_77 := Lib.hid (Na54_0_76.out.keep hb77)
          have HF_77 : Hid (Keeps (· = g) w W77) := Lib.hid (HF_76.out.call hb77)
          have HL_77 : Hid (v72.heap.size ≤ W77.heap.size) := Lib.hid (Nat.le_trans HL_76.out hb77.size)
          have RZ77_77 : Hid (RAt W77 g77 [0]) := Lib.hid (zrow (k := 1) hz77)
          clear hb77 hz77 hg77 hW77 HL_76 RG_76 RX_76 RY_76 Na27_0_76 Na35_0_76 Na54_0_76 HF_76
          simp only [Act.put, List.setIfInBounds_toArray, List.set_cons_zero, List.set_cons_succ]
          refine storeW_F (i := 20) (oi := { dst := none, op := Op.store 23 (Operand.tmp 9) (Operand.tmp 69), type := 0, pos := "extended.go:32", after := #[{ on := 19, ground := Ground.data }, { on := 18, ground := Ground.data }, { on := 18, ground := Ground.chain }, { on := 0, ground := Ground.phase }, { on := 1, ground := Ground.phase }, { on := 2, ground := Ground.phase }, { on := 3, ground := Ground.phase }, { on := 4, ground := Ground.phase }, { on := 5, ground := Ground.phase }, { on := 6, ground := Ground.phase }, { on := 7, ground := Ground.phase }, { on := 8, ground := Ground.phase }, { on := 9, ground := Ground.phase }, { on := 10, ground := Ground.phase }, { on := 11, ground := Ground.phase }, { on := 12, ground := Ground.phase }, { on := 13, ground := Ground.phase }, { on := 14, ground := Ground.phase }, { on := 15, ground := Ground.phase }, { on := 16, ground := Ground.phase }, { on := 17, ground := Ground.phase }, { on := 18, ground := Ground.phase }, { on := 19, ground := Ground.phase }], guard := none }) rfl (by kernel_rfl) (by rfl) (.tmp 9) (.tmp 69) rfl (g77) 0 0 rfl [0] y rfl rfl RZ77_77.out (show 0 < 1 by omega) rfl ?_
          intro W78 hr78 hg78 hz78
          simp only [Act.put, List.setIfInBounds_toArray, List.set_cons_zero, List.set_cons_succ]
          have RG_78 := Lib.hid (RG_77.out.grown hg78 (by have := HX77_12.out; simp; omega))
          have RX_78 := Lib.hid (RX_77.out.grown hg78 (by have := HX77_13.out; simp; omega))
          have RY_78 := Lib.hid (RY_77.out.grown hg78 (by have := HX77_14.out; simp; omega))
          have Na27_0_78 := Lib.hid (Na27_0_77.out.grown hg78 (by have := HX77_15.out; simp; omega))
          have Na35_0_78 := Lib.hid (Na35_0_77.out.grown hg78 (by have := HX77_16.out; simp; omega))
          have Na54_0_78 := Lib.hid (Na54_0_77.out.grown hg78 (by have := HX77_17.out; simp; omega))
          have RZ77_78 : Hid (RAt W78 g77 [y]) := Lib.hid hr78
          have HF_78 : Hid (Keeps (· = g) w W78) := Lib.hid (HF_77.out.newrow hg78 (show w.heap.size ≤ g77 from (by have := HG77.out; have := HLO73.out; omega)))
          have HL_78 : Hid (v72.heap.size ≤ W78.heap.size) := Lib.hid (Nat.le_trans HL_77.out hg78.size)
          clear hr78 hg78 hz78 HL_77 RG_77 RX_77 RY_77 Na27_0_77 Na35_0_77 Na54_0_77 RZ77_77 HF_77
          refine doneW (by kernel_rfl) ⟨rfl, ?_⟩ _
          exact ⟨g77, RG_78.out, RX_78.out, RY_78.out, Na27_0_78.out, Na35_0_78.out, Na54_0_78.out, RZ77_78.out, HG77.out, HF_78.out, rfl⟩
        · refine wpOp_value (i := 19) (oi := { dst := some 9, op := Op.alloc 23, type := 0, pos := "extended.go:32", after := #[], guard := none }) rfl (by rfl) (exec_alloc 23 rfl (.agg (zbs 32)) zero23 W75) ⟨fun _ => (below_alloc W75 _).mono HL_75.out, ?_⟩
          obtain ⟨W79, hW79, hb79, hz79⟩ := alloc_zero W75
          rw [← hW79]
          obtain ⟨g79, hg79⟩ : ∃ g, g = W75.heap.size := ⟨_, rfl⟩
          rw [← hg79] at hz79 ⊢
          have HG79 : Hid (v72.heap.size ≤ g79) := Lib.hid (by rw [hg79]; exact HL_75.out)
          have HX79_12 : Hid (g ≠ g79) := Lib.hid (by have := RG_75.out.lt; omega)
          have HX79_13 : Hid (gp ≠ g79) := Lib.hid (by have := RX_75.out.lt; omega)
          have HX79_14 : Hid (gq ≠ g79) := Lib.hid (by have := RY_75.out.lt; omega)
          have HX79_15 : Hid (a27_0 ≠ g79) := Lib.hid (by have := Na27_0_75.out.lt; omega)
          have HX79_16 : Hid (a35_0 ≠ g79) := Lib.hid (by have := Na35_0_75.out.lt; omega)
          have HX79_17 : Hid (a54_0 ≠ g79) := Lib.hid (by have := Na54_0_75.out.lt; omega)
          have RG_79 := Lib.hid (RG_75.out.keep hb79)
          have RX_79 := Lib.hid (RX_75.out.keep hb79)
          have RY_79 := Lib.hid (RY_75.out.keep hb79)
          have Na27_0_79 := Lib.hid (Na27_0_75.out.keep hb79)
          have Na35_0_79 := Lib.hid (Na35_0_75.out.keep hb79)
          have Na54_0_79 := Lib.hid (Na54_0_75.out.keep hb79)
          have HF_79 : Hid (Keeps (· = g) w W79) := Lib.hid (HF_75.out.call hb79)
          have HL_79 : Hid (v72.heap.size ≤ W79.heap.size) := Lib.hid (Nat.le_trans HL_75.out hb79.size)
          have RZ79_79 : Hid (RAt W79 g79 [0]) := Lib.hid (zrow (k := 1) hz79)
          clear hb79 hz79 hg79 hW79 HL_75 RG_75 RX_75 RY_75 Na27_0_75 Na35_0_75 Na54_0_75 HF_75
          simp only [Act.put, List.setIfInBounds_toArray, List.set_cons_zero, List.set_cons_succ]
          refine callW (i := 18) (oi := { dst := some 69, op := Op.call { callee := Callee.value (Operand.func 19), args := #[Operand.tmp 59, Operand.tmp 68], argTypes := #[23, 23] }, type := 23, pos := "extended.go:32", after := #[{ on := 8, ground := Ground.data }, { on := 17, ground := Ground.data }, { on := 17, ground := Ground.chain }], guard := none }) rfl (by kernel_rfl) (by rfl) (exec_callL 19 [.tmp 59, .tmp 68] #[23, 23] rfl [vN b1, vN b2] rfl (CG19 _)) ((C9.out W79).mono ?_)
          rintro e80 W80 ⟨rfl, hb80⟩
          refine ⟨_, rfl, fun _ => hb80.mono HL_79.out, ?_⟩
          have RG_80 := Lib.hid (RG_79.out.keep hb80)
          have RX_80 := Lib.hid (RX_79.out.keep hb80)
          have RY_80 := Lib.hid (RY_79.out.keep hb80)
          have Na27_0_80 := Lib.hid (Na27_0_79.out.keep hb80)
          have Na35_0_80 := Lib.hid (Na35_0_79.out.keep hb80)
          have Na54_0_80 := Lib.hid (Na54_0_79.out.keep hb80)
          have RZ79_80 := Lib.hid (RZ79_79.out.keep hb80)
          have HF_80 : Hid (Keeps (· = g) w W80) := Lib.hid (HF_79.out.call hb80)
          have HL_80 : Hid (v72.heap.size ≤ W80.heap.size) := Lib.hid (Nat.le_trans HL_79.out hb80.size)
          clear hb80 HL_79 RG_79 RX_79 RY_79 Na27_0_79 Na35_0_79 Na54_0_79 RZ79_79 HF_79
          simp only [Act.put, List.setIfInBounds_toArray, List.set_cons_zero, List.set_cons_succ]
          refine storeW_F (i := 20) (oi := { dst := none, op := Op.store 23 (Operand.tmp 9) (Operand.tmp 69), type := 0, pos := "extended.go:32", after := #[{ on := 19, ground := Ground.data }, { on := 18, ground := Ground.data }, { on := 18, ground := Ground.chain }, { on := 0, ground := Ground.phase }, { on := 1, ground := Ground.phase }, { on := 2, ground := Ground.phase }, { on := 3, ground := Ground.phase }, { on := 4, ground := Ground.phase }, { on := 5, ground := Ground.phase }, { on := 6, ground := Ground.phase }, { on := 7, ground := Ground.phase }, { on := 8, ground := Ground.phase }, { on := 9, ground := Ground.phase }, { on := 10, ground := Ground.phase }, { on := 11, ground := Ground.phase }, { on := 12, ground := Ground.phase }, { on := 13, ground := Ground.phase }, { on := 14, ground := Ground.phase }, { on := 15, ground := Ground.phase }, { on := 16, ground := Ground.phase }, { on := 17, ground := Ground.phase }, { on := 18, ground := Ground.phase }, { on := 19, ground := Ground.phase }], guard := none }) rfl (by kernel_rfl) (by rfl) (.tmp 9) (.tmp 69) rfl (g79) 0 0 rfl [0] y rfl rfl RZ79_80.out (show 0 < 1 by omega) rfl ?_
          intro W81 hr81 hg81 hz81
          simp only [Act.put, List.setIfInBounds_toArray, List.set_cons_zero, List.set_cons_succ]
          have RG_81 := Lib.hid (RG_80.out.grown hg81 (by have := HX79_12.out; simp; omega))
          have RX_81 := Lib.hid (RX_80.out.grown hg81 (by have := HX79_13.out; simp; omega))
          have RY_81 := Lib.hid (RY_80.out.grown hg81 (by have := HX79_14.out; simp; omega))
          have Na27_0_81 := Lib.hid (Na27_0_80.out.grown hg81 (by have := HX79_15.out; simp; omega))
          have Na35_0_81 := Lib.hid (Na35_0_80.out.grown hg81 (by have := HX79_16.out; simp; omega))
          have Na54_0_81 := Lib.hid (Na54_0_80.out.grown hg81 (by have := HX79_17.out; simp; omega))
          have RZ79_81 : Hid (RAt W81 g79 [y]) := Lib.hid hr81
          have HF_81 : Hid (Keeps (· = g) w W81) := Lib.hid (HF_80.out.newrow hg81 (show w.heap.size ≤ g79 from (by have := HG79.out; have := HLO73.out; omega)))
          have HL_81 : Hid (v72.heap.size ≤ W81.heap.size) := Lib.hid (Nat.le_trans HL_80.out hg81.size)
          clear hr81 hg81 hz81 HL_80 RG_80 RX_80 RY_80 Na27_0_80 Na35_0_80 Na54_0_80 RZ79_80 HF_80
          refine doneW (by kernel_rfl) ⟨rfl, ?_⟩ _
          exact ⟨g79, RG_81.out, RX_81.out, RY_81.out, Na27_0_81.out, Na35_0_81.out, Na54_0_81.out, RZ79_81.out, HG79.out, HF_81.out, rfl⟩
      · refine wpOp_value (i := 19) (oi := { dst := some 9, op := Op.alloc 23, type := 0, pos := "extended.go:32", after := #[], guard := none }) rfl (by rfl) (exec_alloc 23 rfl (.agg (zbs 32)) zero23 W74) ⟨fun _ => (below_alloc W74 _).mono HL_74.out, ?_⟩
        obtain ⟨W82, hW82, hb82, hz82⟩ := alloc_zero W74
        rw [← hW82]
        obtain ⟨g82, hg82⟩ : ∃ g, g = W74.heap.size := ⟨_, rfl⟩
        rw [← hg82] at hz82 ⊢
        have HG82 : Hid (v72.heap.size ≤ g82) := Lib.hid (by rw [hg82]; exact HL_74.out)
        have HX82_12 : Hid (g ≠ g82) := Lib.hid (by have := RG_74.out.lt; omega)
        have HX82_13 : Hid (gp ≠ g82) := Lib.hid (by have := RX_74.out.lt; omega)
        have HX82_14 : Hid (gq ≠ g82) := Lib.hid (by have := RY_74.out.lt; omega)
        have HX82_15 : Hid (a27_0 ≠ g82) := Lib.hid (by have := Na27_0_74.out.lt; omega)
        have HX82_16 : Hid (a35_0 ≠ g82) := Lib.hid (by have := Na35_0_74.out.lt; omega)
        have HX82_17 : Hid (a54_0 ≠ g82) := Lib.hid (by have := Na54_0_74.out.lt; omega)
        have RG_82 := Lib.hid (RG_74.out.keep hb82)
        have RX_82 := Lib.hid (RX_74.out.keep hb82)
        have RY_82 := Lib.hid (RY_74.out.keep hb82)
        have Na27_0_82 := Lib.hid (Na27_0_74.out.keep hb82)
        have Na35_0_82 := Lib.hid (Na35_0_74.out.keep hb82)
        have Na54_0_82 := Lib.hid (Na54_0_74.out.keep hb82)
        have HF_82 : Hid (Keeps (· = g) w W82) := Lib.hid (HF_74.out.call hb82)
        have HL_82 : Hid (v72.heap.size ≤ W82.heap.size) := Lib.hid (Nat.le_trans HL_74.out hb82.size)
        have RZ82_82 : Hid (RAt W82 g82 [0]) := Lib.hid (zrow (k := 1) hz82)
        clear hb82 hz82 hg82 hW82 HL_74 RG_74 RX_74 RY_74 Na27_0_74 Na35_0_74 Na54_0_74 HF_74
        simp only [Act.put, List.setIfInBounds_toArray, List.set_cons_zero, List.set_cons_succ]
        refine callW (i := 17) (oi := { dst := some 68, op := Op.call { callee := Callee.value (Operand.func 25), args := #[Operand.tmp 63, Operand.tmp 67], argTypes := #[23, 23] }, type := 23, pos := "extended.go:32", after := #[{ on := 12, ground := Ground.data }, { on := 16, ground := Ground.data }, { on := 8, ground := Ground.chain }], guard := none }) rfl (by kernel_rfl) (by rfl) (exec_callL 25 [.tmp 63, .tmp 67] #[23, 23] rfl [vN x1, vN x2] rfl (CG25 _)) ((C8.out W82).mono ?_)
        rintro e83 W83 ⟨rfl, hb83⟩
        refine ⟨_, rfl, fun _ => hb83.mono HL_82.out, ?_⟩
        have RG_83 := Lib.hid (RG_82.out.keep hb83)
        have RX_83 := Lib.hid (RX_82.out.keep hb83)
        have RY_83 := Lib.hid (RY_82.out.keep hb83)
        have Na27_0_83 := Lib.hid (Na27_0_82.out.keep hb83)
        have Na35_0_83 := Lib.hid (Na35_0_82.out.keep hb83)
        have Na54_0_83 := Lib.hid (Na54_0_82.out.keep hb83)
        have RZ82_83 := Lib.hid (RZ82_82.out.keep hb83)
        have HF_83 : Hid (Keeps (· = g) w W83) := Lib.hid (HF_82.out.call hb83)
        have HL_83 : Hid (v72.heap.size ≤ W83.heap.size) := Lib.hid (Nat.le_trans HL_82.out hb83.size)
        clear hb83 HL_82 RG_82 RX_82 RY_82 Na27_0_82 Na35_0_82 Na54_0_82 RZ82_82 HF_82
        simp only [Act.put, List.setIfInBounds_toArray, List.set_cons_zero, List.set_cons_succ]
        refine callW (i := 18) (oi := { dst := some 69, op := Op.call { callee := Callee.value (Operand.func 19), args := #[Operand.tmp 59, Operand.tmp 68], argTypes := #[23, 23] }, type := 23, pos := "extended.go:32", after := #[{ on := 8, ground := Ground.data }, { on := 17, ground := Ground.data }, { on := 17, ground := Ground.chain }], guard := none }) rfl (by kernel_rfl) (by rfl) (exec_callL 19 [.tmp 59, .tmp 68] #[23, 23] rfl [vN b1, vN b2] rfl (CG19 _)) ((C9.out W83).mono ?_)
        rintro e84 W84 ⟨rfl, hb84⟩
        refine ⟨_, rfl, fun _ => hb84.mono HL_83.out, ?_⟩
        have RG_84 := Lib.hid (RG_83.out.keep hb84)
        have RX_84 := Lib.hid (RX_83.out.keep hb84)
        have RY_84 := Lib.hid (RY_83.out.keep hb84)
        have Na27_0_84 := Lib.hid (Na27_0_83.out.keep hb84)
        have Na35_0_84 := Lib.hid (Na35_0_83.out.keep hb84)
        have Na54_0_84 := Lib.hid (Na54_0_83.out.keep hb84)
        have RZ82_84 := Lib.hid (RZ82_83.out.keep hb84)
        have HF_84 : Hid (Keeps (· = g) w W84) := Lib.hid (HF_83.out.call hb84)
        have HL_84 : Hid (v72.heap.size ≤ W84.heap.size) := Lib.hid (Nat.le_trans HL_83.out hb84.size)
        clear hb84 HL_83 RG_83 RX_83 RY_83 Na27_0_83 Na35_0_83 Na54_0_83 RZ82_83 HF_83
        simp only [Act.put, List.setIfInBounds_toArray, List.set_cons_zero, List.set_cons_succ]
        refine storeW_F (i := 20) (oi := { dst := none, op := Op.store 23 (Operand.tmp 9) (Operand.tmp 69), type := 0, pos := "extended.go:32", after := #[{ on := 19, ground := Ground.data }, { on := 18, ground := Ground.data }, { on := 18, ground := Ground.chain }, { on := 0, ground := Ground.phase }, { on := 1, ground := Ground.phase }, { on := 2, ground := Ground.phase }, { on := 3, ground := Ground.phase }, { on := 4, ground := Ground.phase }, { on := 5, ground := Ground.phase }, { on := 6, ground := Ground.phase }, { on := 7, ground := Ground.phase }, { on := 8, ground := Ground.phase }, { on := 9, ground := Ground.phase }, { on := 10, ground := Ground.phase }, { on := 11, ground := Ground.phase }, { on := 12, ground := Ground.phase }, { on := 13, ground := Ground.phase }, { on := 14, ground := Ground.phase }, { on := 15, ground := Ground.phase }, { on := 16, ground := Ground.phase }, { on := 17, ground := Ground.phase }, { on := 18, ground := Ground.phase }, { on := 19, ground := Ground.phase }], guard := none }) rfl (by kernel_rfl) (by rfl) (.tmp 9) (.tmp 69) rfl (g82) 0 0 rfl [0] y rfl rfl RZ82_84.out (show 0 < 1 by omega) rfl ?_
        intro W85 hr85 hg85 hz85
        simp only [Act.put, List.setIfInBounds_toArray, List.set_cons_zero, List.set_cons_succ]
        have RG_85 := Lib.hid (RG_84.out.grown hg85 (by have := HX82_12.out; simp; omega))
        have RX_85 := Lib.hid (RX_84.out.grown hg85 (by have := HX82_13.out; simp; omega))
        have RY_85 := Lib.hid (RY_84.out.grown hg85 (by have := HX82_14.out; simp; omega))
        have Na27_0_85 := Lib.hid (Na27_0_84.out.grown hg85 (by have := HX82_15.out; simp; omega))
        have Na35_0_85 := Lib.hid (Na35_0_84.out.grown hg85 (by have := HX82_16.out; simp; omega))
        have Na54_0_85 := Lib.hid (Na54_0_84.out.grown hg85 (by have := HX82_17.out; simp; omega))
        have RZ82_85 : Hid (RAt W85 g82 [y]) := Lib.hid hr85
        have HF_85 : Hid (Keeps (· = g) w W85) := Lib.hid (HF_84.out.newrow hg85 (show w.heap.size ≤ g82 from (by have := HG82.out; have := HLO73.out; omega)))
        have HL_85 : Hid (v72.heap.size ≤ W85.heap.size) := Lib.hid (Nat.le_trans HL_84.out hg85.size)
        clear hr85 hg85 hz85 HL_84 RG_84 RX_84 RY_84 Na27_0_84 Na35_0_84 Na54_0_84 RZ82_84 HF_84
        refine doneW (by kernel_rfl) ⟨rfl, ?_⟩ _
        exact ⟨g82, RG_85.out, RX_85.out, RY_85.out, Na27_0_85.out, Na35_0_85.out, Na54_0_85.out, RZ82_85.out, HG82.out, HF_85.out, rfl⟩
    · refine wpOp_value (i := 19) (oi := { dst := some 9, op := Op.alloc 23, type := 0, pos := "extended.go:32", after := #[], guard := none }) rfl (by rfl) (exec_alloc 23 rfl (.agg (zbs 32)) zero23 D73) ⟨fun _ => (below_alloc D73 _).mono HL_73.out, ?_⟩
      obtain ⟨W86, hW86, hb86, hz86⟩ := alloc_zero D73
      rw [← hW86]
      obtain ⟨g86, hg86⟩ : ∃ g, g = D73.heap.size := ⟨_, rfl⟩
      rw [← hg86] at hz86 ⊢
      have HG86 : Hid (v72.heap.size ≤ g86) := Lib.hid (by rw [hg86]; exact HL_73.out)
      have HX86_12 : Hid (g ≠ g86) := Lib.hid (by have := RG_73.out.lt; omega)
      have HX86_13 : Hid (gp ≠ g86) := Lib.hid (by have := RX_73.out.lt; omega)
      have HX86_14 : Hid (gq ≠ g86) := Lib.hid (by have := RY_73.out.lt; omega)
      have HX86_15 : Hid (a27_0 ≠ g86) := Lib.hid (by have := Na27_0_73.out.lt; omega)
      have HX86_16 : Hid (a35_0 ≠ g86) := Lib.hid (by have := Na35_0_73.out.lt; omega)
      have HX86_17 : Hid (a54_0 ≠ g86) := Lib.hid (by have := Na54_0_73.out.lt; omega)
      have RG_86 := Lib.hid (RG_73.out.keep hb86)
      have RX_86 := Lib.hid (RX_73.out.keep hb86)
      have RY_86 := Lib.hid (RY_73.out.keep hb86)
      have Na27_0_86 := Lib.hid (Na27_0_73.out.keep hb86)
      have Na35_0_86 := Lib.hid (Na35_0_73.out.keep hb86)
      have Na54_0_86 := Lib.hid (Na54_0_73.out.keep hb86)
      have HF_86 : Hid (Keeps (· = g) w W86) := Lib.hid (HF_73.out.call hb86)
      have HL_86 : Hid (v72.heap.size ≤ W86.heap.size) := Lib.hid (Nat.le_trans HL_73.out hb86.size)
      have RZ86_86 : Hid (RAt W86 g86 [0]) := Lib.hid (zrow (k := 1) hz86)
      clear hb86 hz86 hg86 hW86 HL_73 RG_73 RX_73 RY_73 Na27_0_73 Na35_0_73 Na54_0_73 HF_73
      simp only [Act.put, List.setIfInBounds_toArray, List.set_cons_zero, List.set_cons_succ]
      refine callW (i := 8) (oi := { dst := some 59, op := Op.call { callee := Callee.value (Operand.func 25), args := #[Operand.tmp 54, Operand.tmp 58], argTypes := #[23, 23] }, type := 23, pos := "extended.go:32", after := #[{ on := 3, ground := Ground.data }, { on := 7, ground := Ground.data }], guard := none }) rfl (by kernel_rfl) (by rfl) (exec_callL 25 [.tmp 54, .tmp 58] #[23, 23] rfl [vN y1, vN y2] rfl (CG25 _)) ((C7.out W86).mono ?_)
      rintro e87 W87 ⟨rfl, hb87⟩
      refine ⟨_, rfl, fun _ => hb87.mono HL_86.out, ?_⟩
      have RG_87 := Lib.hid (RG_86.out.keep hb87)
      have RX_87 := Lib.hid (RX_86.out.keep hb87)
      have RY_87 := Lib.hid (RY_86.out.keep hb87)
      have Na27_0_87 := Lib.hid (Na27_0_86.out.keep hb87)
      have Na35_0_87 := Lib.hid (Na35_0_86.out.keep hb87)
      have Na54_0_87 := Lib.hid (Na54_0_86.out.keep hb87)
      have RZ86_87 := Lib.hid (RZ86_86.out.keep hb87)
      have HF_87 : Hid (Keeps (· = g) w W87) := Lib.hid (HF_86.out.call hb87)
      have HL_87 : Hid (v72.heap.size ≤ W87.heap.size) := Lib.hid (Nat.le_trans HL_86.out hb87.size)
      clear hb87 HL_86 RG_86 RX_86 RY_86 Na27_0_86 Na35_0_86 Na54_0_86 RZ86_86 HF_86
      simp only [Act.put, List.setIfInBounds_toArray, List.set_cons_zero, List.set_cons_succ]
      refine callW (i := 17) (oi := { dst := some 68, op := Op.call { callee := Callee.value (Operand.func 25), args := #[Operand.tmp 63, Operand.tmp 67], argTypes := #[23, 23] }, type := 23, pos := "extended.go:32", after := #[{ on := 12, ground := Ground.data }, { on := 16, ground := Ground.data }, { on := 8, ground := Ground.chain }], guard := none }) rfl (by kernel_rfl) (by rfl) (exec_callL 25 [.tmp 63, .tmp 67] #[23, 23] rfl [vN x1, vN x2] rfl (CG25 _)) ((C8.out W87).mono ?_)
      rintro e88 W88 ⟨rfl, hb88⟩
      refine ⟨_, rfl, fun _ => hb88.mono HL_87.out, ?_⟩
      have RG_88 := Lib.hid (RG_87.out.keep hb88)
      have RX_88 := Lib.hid (RX_87.out.keep hb88)
      have RY_88 := Lib.hid (RY_87.out.keep hb88)
      have Na27_0_88 := Lib.hid (Na27_0_87.out.keep hb88)
      have Na35_0_88 := Lib.hid (Na35_0_87.out.keep hb88)
      have Na54_0_88 := Lib.hid (Na54_0_87.out.keep hb88)
      have RZ86_88 := Lib.hid (RZ86_87.out.keep hb88)
      have HF_88 : Hid (Keeps (· = g) w W88) := Lib.hid (HF_87.out.call hb88)
      have HL_88 : Hid (v72.heap.size ≤ W88.heap.size) := Lib.hid (Nat.le_trans HL_87.out hb88.size)
      clear hb88 HL_87 RG_87 RX_87 RY_87 Na27_0_87 Na35_0_87 Na54_0_87 RZ86_87 HF_87
      simp only [Act.put, List.setIfInBounds_toArray, List.set_cons_zero, List.set_cons_succ]
      refine callW (i := 18) (oi := { dst := some 69, op := Op.call { callee := Callee.value (Operand.func 19), args := #[Operand.tmp 59, Operand.tmp 68], argTypes := #[23, 23] }, type := 23, pos := "extended.go:32", after := #[{ on := 8, ground := Ground.data }, { on := 17, ground := Ground.data }, { on := 17, ground := Ground.chain }], guard := none }) rfl (by kernel_rfl) (by rfl) (exec_callL 19 [.tmp 59, .tmp 68] #[23, 23] rfl [vN b1, vN b2] rfl (CG19 _)) ((C9.out W88).mono ?_)
      rintro e89 W89 ⟨rfl, hb89⟩
      refine ⟨_, rfl, fun _ => hb89.mono HL_88.out, ?_⟩
      have RG_89 := Lib.hid (RG_88.out.keep hb89)
      have RX_89 := Lib.hid (RX_88.out.keep hb89)
      have RY_89 := Lib.hid (RY_88.out.keep hb89)
      have Na27_0_89 := Lib.hid (Na27_0_88.out.keep hb89)
      have Na35_0_89 := Lib.hid (Na35_0_88.out.keep hb89)
      have Na54_0_89 := Lib.hid (Na54_0_88.out.keep hb89)
      have RZ86_89 := Lib.hid (RZ86_88.out.keep hb89)
      have HF_89 : Hid (Keeps (· = g) w W89) := Lib.hid (HF_88.out.call hb89)
      have HL_89 : Hid (v72.heap.size ≤ W89.heap.size) := Lib.hid (Nat.le_trans HL_88.out hb89.size)
      clear hb89 HL_88 RG_88 RX_88 RY_88 Na27_0_88 Na35_0_88 Na54_0_88 RZ86_88 HF_88
      simp only [Act.put, List.setIfInBounds_toArray, List.set_cons_zero, List.set_cons_succ]
      refine storeW_F (i := 20) (oi := { dst := none, op := Op.store 23 (Operand.tmp 9) (Operand.tmp 69), type := 0, pos := "extended.go:32", after := #[{ on := 19, ground := Ground.data }, { on := 18, ground := Ground.data }, { on := 18, ground := Ground.chain }, { on := 0, ground := Ground.phase }, { on := 1, ground := Ground.phase }, { on := 2, ground := Ground.phase }, { on := 3, ground := Ground.phase }, { on := 4, ground := Ground.phase }, { on := 5, ground := Ground.phase }, { on := 6, ground := Ground.phase }, { on := 7, ground := Ground.phase }, { on := 8, ground := Ground.phase }, { on := 9, ground := Ground.phase }, { on := 10, ground := Ground.phase }, { on := 11, ground := Ground.phase }, { on := 12, ground := Ground.phase }, { on := 13, ground := Ground.phase }, { on := 14, ground := Ground.phase }, { on := 15, ground := Ground.phase }, { on := 16, ground := Ground.phase }, { on := 17, ground := Ground.phase }, { on := 18, ground := Ground.phase }, { on := 19, ground := Ground.phase }], guard := none }) rfl (by kernel_rfl) (by rfl) (.tmp 9) (.tmp 69) rfl (g86) 0 0 rfl [0] y rfl rfl RZ86_89.out (show 0 < 1 by omega) rfl ?_
      intro W90 hr90 hg90 hz90
      simp only [Act.put, List.setIfInBounds_toArray, List.set_cons_zero, List.set_cons_succ]
      have RG_90 := Lib.hid (RG_89.out.grown hg90 (by have := HX86_12.out; simp; omega))
      have RX_90 := Lib.hid (RX_89.out.grown hg90 (by have := HX86_13.out; simp; omega))
      have RY_90 := Lib.hid (RY_89.out.grown hg90 (by have := HX86_14.out; simp; omega))
      have Na27_0_90 := Lib.hid (Na27_0_89.out.grown hg90 (by have := HX86_15.out; simp; omega))
      have Na35_0_90 := Lib.hid (Na35_0_89.out.grown hg90 (by have := HX86_16.out; simp; omega))
      have Na54_0_90 := Lib.hid (Na54_0_89.out.grown hg90 (by have := HX86_17.out; simp; omega))
      have RZ86_90 : Hid (RAt W90 g86 [y]) := Lib.hid hr90
      have HF_90 : Hid (Keeps (· = g) w W90) := Lib.hid (HF_89.out.newrow hg90 (show w.heap.size ≤ g86 from (by have := HG86.out; have := HLO73.out; omega)))
      have HL_90 : Hid (v72.heap.size ≤ W90.heap.size) := Lib.hid (Nat.le_trans HL_89.out hg90.size)
      clear hr90 hg90 hz90 HL_89 RG_89 RX_89 RY_89 Na27_0_89 Na35_0_89 Na54_0_89 RZ86_89 HF_89
      refine doneW (by kernel_rfl) ⟨rfl, ?_⟩ _
      exact ⟨g86, RG_90.out, RX_90.out, RY_90.out, Na27_0_90.out, Na35_0_90.out, Na54_0_90.out, RZ86_90.out, HG86.out, HF_90.out, rfl⟩
  rintro a' v91 ⟨a73_0, h0, h1, h2, h3, h4, h5, h6, k0, hF, rfl⟩
  have RG_91 := Lib.hid h0
  have RX_91 := Lib.hid h1
  have RY_91 := Lib.hid h2
  have Na27_0_91 := Lib.hid h3
  have Na35_0_91 := Lib.hid h4
  have Na54_0_91 := Lib.hid h5
  have Na73_0_91 := Lib.hid h6
  have HNE91_12 : Hid (g ≠ a73_0) := Lib.hid (by have := HLT73_0.out; omega)
  have HNE91_13 : Hid (gp ≠ a73_0) := Lib.hid (by have := HLT73_1.out; omega)
  have HNE91_14 : Hid (gq ≠ a73_0) := Lib.hid (by have := HLT73_2.out; omega)
  have HNE91_15 : Hid (a27_0 ≠ a73_0) := Lib.hid (by have := HLT73_3.out; omega)
  have HNE91_16 : Hid (a35_0 ≠ a73_0) := Lib.hid (by have := HLT73_4.out; omega)
  have HNE91_17 : Hid (a54_0 ≠ a73_0) := Lib.hid (by have := HLT73_5.out; omega)
  have HGE91_0 : Hid (w.heap.size ≤ a73_0) := Lib.hid (by have := HLO73.out; omega)
  have HF_91 := Lib.hid hF
  clear h0 h1 h2 h3 h4 h5 h6 k0 hF HLT73_0 HLT73_1 HLT73_2 HLT73_3 HLT73_4 HLT73_5 HLO73 RG_72 RX_72 RY_72 Na27_0_72 Na35_0_72 Na54_0_72 HF_72
  go_wp2_with fail
  have HLT92_0 : Hid (g < v91.heap.size) := Lib.hid RG_91.out.lt
  have HLT92_1 : Hid (gp < v91.heap.size) := Lib.hid RX_91.out.lt
  have HLT92_2 : Hid (gq < v91.heap.size) := Lib.hid RY_91.out.lt
  have HLT92_3 : Hid (a27_0 < v91.heap.size) := Lib.hid Na27_0_91.out.lt
  have HLT92_4 : Hid (a35_0 < v91.heap.size) := Lib.hid Na35_0_91.out.lt
  have HLT92_5 : Hid (a54_0 < v91.heap.size) := Lib.hid Na54_0_91.out.lt
  have HLT92_6 : Hid (a73_0 < v91.heap.size) := Lib.hid Na73_0_91.out.lt
  have HLO92 : Hid (w.heap.size ≤ v91.heap.size) := Lib.hid HF_91.out.size
  refine region_split (fun a' W => ∃ a92_0 a92_1, RAt W g [r0, r1, r2, r3] ∧ RAt W gp [x1, y1, z1, t1] ∧ RAt W gq [x2, y2, z2, t2] ∧ RAt W a27_0 [one] ∧ RAt W a35_0 [d] ∧ RAt W a54_0 [x] ∧ RAt W a73_0 [y] ∧ RAt W a92_0 [ox] ∧ RAt W a92_1 [oy] ∧ v91.heap.size ≤ a92_0 ∧ v91.heap.size ≤ a92_1 ∧ a92_1 ≠ a92_0 ∧ Keeps (· = g) w W ∧ a' = ⟨#[.pointer (some ⟨g, 0, none⟩), .pointer (some ⟨gp, 0, none⟩), .pointer (some ⟨gq, 0, none⟩), undef, undef, undef, .pointer (some ⟨a27_0, 0, none⟩), .pointer (some ⟨a35_0, 0, none⟩), .pointer (some ⟨a54_0, 0, none⟩), .pointer (some ⟨a73_0, 0, none⟩), .pointer (some ⟨a92_0, 0, none⟩), .pointer (some ⟨a92_1, 0, none⟩), .pointer (some ⟨gp, 0, none⟩), .pointer (some ⟨gp, 0, none⟩), .pointer (some ⟨gp, 64, none⟩), vN z1, .pointer (some ⟨gq, 0, none⟩), .pointer (some ⟨gq, 0, none⟩), .pointer (some ⟨gq, 64, none⟩), vN z2, vN one, vN dd, .pointer (some ⟨gp, 0, none⟩), .pointer (some ⟨gp, 0, none⟩), .pointer (some ⟨gp, 96, none⟩), vN t1, .pointer (some ⟨gq, 0, none⟩), .pointer (some ⟨gq, 0, none⟩), .pointer (some ⟨gq, 96, none⟩), vN t2, vN tt, vN d, .pointer (some ⟨gp, 0, none⟩), .pointer (some ⟨gp, 0, none⟩), .pointer (some ⟨gp, 0, none⟩), vN x1, .pointer (some ⟨gq, 0, none⟩), .pointer (some ⟨gq, 0, none⟩), .pointer (some ⟨gq, 32, none⟩), vN y2, vN a1, .pointer (some ⟨gp, 0, none⟩), .pointer (some ⟨gp, 0, none⟩), .pointer (some ⟨gp, 32, none⟩), vN y1, .pointer (some ⟨gq, 0, none⟩), .pointer (some ⟨gq, 0, none⟩), .pointer (some ⟨gq, 0, none⟩), vN x2, vN a2, vN x, .pointer (some ⟨gp, 0, none⟩), .pointer (some ⟨gp, 0, none⟩), .pointer (some ⟨gp, 32, none⟩), vN y1, .pointer (some ⟨gq, 0, none⟩), .pointer (some ⟨gq, 0, none⟩), .pointer (some ⟨gq, 32, none⟩), vN y2, vN b1, .pointer (some ⟨gp, 0, none⟩), .pointer (some ⟨gp, 0, none⟩), .pointer (some ⟨gp, 0, none⟩), vN x1, .pointer (some ⟨gq, 0, none⟩), .pointer (some ⟨gq, 0, none⟩), .pointer (some ⟨gq, 0, none⟩), vN x2, vN b2, vN y, vN one, vN d, vN ox, vN one, vN d, vN oy, undef, undef], []⟩) ?_ ?_
  · refine startW (fun j => j == 8 || j == 9) (v91.heap.size) (by kernel_rfl) ?_
    obtain ⟨D92, hD92⟩ : ∃ D, D = v91.drew := ⟨_, rfl⟩
    rw [← hD92]
    have HL_92 : Hid (v91.heap.size ≤ D92.heap.size) := Lib.hid (by rw [hD92]; exact Nat.le_refl _)
    have RG_92 : Hid (RAt D92 g [r0, r1, r2, r3]) := Lib.hid (by rw [hD92]; exact RG_91.out)
    have RX_92 : Hid (RAt D92 gp [x1, y1, z1, t1]) := Lib.hid (by rw [hD92]; exact RX_91.out)
    have RY_92 : Hid (RAt D92 gq [x2, y2, z2, t2]) := Lib.hid (by rw [hD92]; exact RY_91.out)
    have Na27_0_92 : Hid (RAt D92 a27_0 [one]) := Lib.hid (by rw [hD92]; exact Na27_0_91.out)
    have Na35_0_92 : Hid (RAt D92 a35_0 [d]) := Lib.hid (by rw [hD92]; exact Na35_0_91.out)
    have Na54_0_92 : Hid (RAt D92 a54_0 [x]) := Lib.hid (by rw [hD92]; exact Na54_0_91.out)
    have Na73_0_92 : Hid (RAt D92 a73_0 [y]) := Lib.hid (by rw [hD92]; exact Na73_0_91.out)
    have HF_92 : Hid (Keeps (· = g) w D92) := Lib.hid (by rw [hD92]; exact drew_rel HF_91.out)
    clear hD92 RG_91 RX_91 RY_91 Na27_0_91 Na35_0_91 Na54_0_91 Na73_0_91 HF_91
    refine takeT (i := 0) (oi := { dst := some 70, op := Op.load 23 (Operand.tmp 6), type := 23, pos := "extended.go:33", after := #[], guard := none }) (vN one) rfl (by kernel_rfl) (by kernel_rfl) (by kernel_rfl) (by kernel_rfl) (by kernel_rfl) (fun _ _ _ h => nomatch h.1) (by rfl) (fun w' hk => exec_loadF (.tmp 6) rfl (a27_0) 0 0 rfl [one] one rfl (Na27_0_92.out.below hk HLT92_3.out) rfl) ?_
    simp only [Act.put, List.setIfInBounds_toArray, List.set_cons_zero, List.set_cons_succ]
    refine takeT (i := 1) (oi := { dst := some 71, op := Op.load 23 (Operand.tmp 7), type := 23, pos := "extended.go:33", after := #[], guard := none }) (vN d) rfl (by kernel_rfl) (by kernel_rfl) (by kernel_rfl) (by kernel_rfl) (by kernel_rfl) (fun _ _ _ h => nomatch h.1) (by rfl) (fun w' hk => exec_loadF (.tmp 7) rfl (a35_0) 0 0 rfl [d] d rfl (Na35_0_92.out.below hk HLT92_4.out) rfl) ?_
    simp only [Act.put, List.setIfInBounds_toArray, List.set_cons_zero, List.set_cons_succ]
    refine takeT (i := 3) (oi := { dst := some 73, op := Op.load 23 (Operand.tmp 6), type := 23, pos := "extended.go:33", after := #[], guard := none }) (vN one) rfl (by kernel_rfl) (by kernel_rfl) (by kernel_rfl) (by kernel_rfl) (by kernel_rfl) (fun _ _ _ h => nomatch h.1) (by rfl) (fun w' hk => exec_loadF (.tmp 6) rfl (a27_0) 0 0 rfl [one] one rfl (Na27_0_92.out.below hk HLT92_3.out) rfl) ?_
    simp only [Act.put, List.setIfInBounds_toArray, List.set_cons_zero, List.set_cons_succ]
    refine takeT (i := 4) (oi := { dst := some 74, op := Op.load 23 (Operand.tmp 7), type := 23, pos := "extended.go:33", after := #[], guard := none }) (vN d) rfl (by kernel_rfl) (by kernel_rfl) (by kernel_rfl) (by kernel_rfl) (by kernel_rfl) (fun _ _ _ h => nomatch h.1) (by rfl) (fun w' hk => exec_loadF (.tmp 7) rfl (a35_0) 0 0 rfl [d] d rfl (Na35_0_92.out.below hk HLT92_4.out) rfl) ?_
    simp only [Act.put, List.setIfInBounds_toArray, List.set_cons_zero, List.set_cons_succ]
    refine eachW [2, 6, 7] (by kernel_rfl) (by simp) ?_
    intro k hk
    simp only [List.mem_cons, List.not_mem_nil, or_false] at hk
    rcases hk with rfl | rfl | rfl
    · refine wpOp_call (i := 2) (oi := { dst := some 72, op := Op.call { callee := Callee.value (Operand.func 19), args := #[Operand.tmp 70, Operand.tmp 71], argTypes := #[23, 23] }, type := 23, pos := "extended.go:33", after := #[{ on := 0, ground := Ground.data }, { on := 1, ground := Ground.data }], guard := none }) rfl (by rfl) (exec_callL 19 [.tmp 70, .tmp 71] #[23, 23] rfl [vN one, vN d] rfl (CG19 _)) ((C10.out D92).mono ?_)
      rintro e93 W93 ⟨rfl, hb93⟩
      refine ⟨_, rfl, fun _ => hb93.mono HL_92.out, ?_⟩
      have RG_93 := Lib.hid (RG_92.out.keep hb93)
      have RX_93 := Lib.hid (RX_92.out.keep hb93)
      have RY_93 := Lib.hid (RY_92.out.keep hb93)
      have Na27_0_93 := Lib.hid (Na27_0_92.out.keep hb93)
      have Na35_0_93 := Lib.hid (Na35_0_92.out.keep hb93)
      have Na54_0_93 := Lib.hid (Na54_0_92.out.keep hb93)
      have Na73_0_93 := Lib.hid (Na73_0_92.out.keep hb93)
      have HF_93 : Hid (Keeps (· = g) w W93) := Lib.hid (HF_92.out.call hb93)
      have HL_93 : Hid (v91.heap.size ≤ W93.heap.size) := Lib.hid (Nat.le_trans HL_92.out hb93.size)
      clear hb93 HL_92 RG_92 RX_92 RY_92 Na27_0_92 Na35_0_92 Na54_0_92 Na73_0_92 HF_92
      simp only [Act.put, List.setIfInBounds_toArray, List.set_cons_zero, List.set_cons_succ]
      refine eachW [5, 6, 7] (by kernel_rfl) (by simp) ?_
      intro k hk
      simp only [List.mem_cons, List.not_mem_nil, or_false] at hk
      rcases hk with rfl | rfl | rfl
      · refine wpOp_call (i := 5) (oi := { dst := some 75, op := Op.call { callee := Callee.value (Operand.func 21), args := #[Operand.tmp 73, Operand.tmp 74], argTypes := #[23, 23] }, type := 23, pos := "extended.go:33", after := #[{ on := 3, ground := Ground.data }, { on := 4, ground := Ground.data }, { on := 2, ground := Ground.chain }], guard := none }) rfl (by rfl) (exec_callL 21 [.tmp 73, .tmp 74] #[23, 23] rfl [vN one, vN d] rfl (CG21 _)) ((C11.out W93).mono ?_)
        rintro e94 W94 ⟨rfl, hb94⟩
        refine ⟨_, rfl, fun _ => hb94.mono HL_93.out, ?_⟩
        have RG_94 := Lib.hid (RG_93.out.keep hb94)
        have RX_94 := Lib.hid (RX_93.out.keep hb94)
        have RY_94 := Lib.hid (RY_93.out.keep hb94)
        have Na27_0_94 := Lib.hid (Na27_0_93.out.keep hb94)
        have Na35_0_94 := Lib.hid (Na35_0_93.out.keep hb94)
        have Na54_0_94 := Lib.hid (Na54_0_93.out.keep hb94)
        have Na73_0_94 := Lib.hid (Na73_0_93.out.keep hb94)
        have HF_94 : Hid (Keeps (· = g) w W94) := Lib.hid (HF_93.out.call hb94)
        have HL_94 : Hid (v91.heap.size ≤ W94.heap.size) := Lib.hid (Nat.le_trans HL_93.out hb94.size)
        clear hb94 HL_93 RG_93 RX_93 RY_93 Na27_0_93 Na35_0_93 Na54_0_93 Na73_0_93 HF_93
        simp only [Act.put, List.setIfInBounds_toArray, List.set_cons_zero, List.set_cons_succ]
        refine eachW [6, 7] (by kernel_rfl) (by simp) ?_
        intro k hk
        simp only [List.mem_cons, List.not_mem_nil, or_false] at hk
        rcases hk with rfl | rfl
        · refine wpOp_value (i := 6) (oi := { dst := some 10, op := Op.alloc 23, type := 0, pos := "extended.go:33", after := #[], guard := none }) rfl (by rfl) (exec_alloc 23 rfl (.agg (zbs 32)) zero23 W94) ⟨fun _ => (below_alloc W94 _).mono HL_94.out, ?_⟩
          obtain ⟨W95, hW95, hb95, hz95⟩ := alloc_zero W94
          rw [← hW95]
          obtain ⟨g95, hg95⟩ : ∃ g, g = W94.heap.size := ⟨_, rfl⟩
          rw [← hg95] at hz95 ⊢
          have HG95 : Hid (v91.heap.size ≤ g95) := Lib.hid (by rw [hg95]; exact HL_94.out)
          have HX95_18 : Hid (g ≠ g95) := Lib.hid (by have := RG_94.out.lt; omega)
          have HX95_19 : Hid (gp ≠ g95) := Lib.hid (by have := RX_94.out.lt; omega)
          have HX95_20 : Hid (gq ≠ g95) := Lib.hid (by have := RY_94.out.lt; omega)
          have HX95_21 : Hid (a27_0 ≠ g95) := Lib.hid (by have := Na27_0_94.out.lt; omega)
          have HX95_22 : Hid (a35_0 ≠ g95) := Lib.hid (by have := Na35_0_94.out.lt; omega)
          have HX95_23 : Hid (a54_0 ≠ g95) := Lib.hid (by have := Na54_0_94.out.lt; omega)
          have HX95_24 : Hid (a73_0 ≠ g95) := Lib.hid (by have := Na73_0_94.out.lt; omega)
          have RG_95 := Lib.hid (RG_94.out.keep hb95)
          have RX_95 := Lib.hid (RX_94.out.keep hb95)
          have RY_95 := Lib.hid (RY_94.out.keep hb95)
          have Na27_0_95 := Lib.hid (Na27_0_94.out.keep hb95)
          have Na35_0_95 := Lib.hid (Na35_0_94.out.keep hb95)
          have Na54_0_95 := Lib.hid (Na54_0_94.out.keep hb95)
          have Na73_0_95 := Lib.hid (Na73_0_94.out.keep hb95)
          have HF_95 : Hid (Keeps (· = g) w W95) := Lib.hid (HF_94.out.call hb95)
          have HL_95 : Hid (v91.heap.size ≤ W95.heap.size) := Lib.hid (Nat.le_trans HL_94.out hb95.size)
          have RZ95_95 : Hid (RAt W95 g95 [0]) := Lib.hid (zrow (k := 1) hz95)
          clear hb95 hz95 hg95 hW95 HL_94 RG_94 RX_94 RY_94 Na27_0_94 Na35_0_94 Na54_0_94 Na73_0_94 HF_94
          simp only [Act.put, List.setIfInBounds_toArray, List.set_cons_zero, List.set_cons_succ]
          refine opW _ _ (i := 7) (oi := { dst := some 11, op := Op.alloc 23, type := 0, pos := "extended.go:33", after := #[], guard := none }) rfl (by kernel_rfl) (by rfl) (exec_alloc 23 rfl (.agg (zbs 32)) zero23 W95) (fun _ => (below_alloc W95 _).mono HL_95.out) ?_
          obtain ⟨W96, hW96, hb96, hz96⟩ := alloc_zero W95
          rw [← hW96]
          obtain ⟨g96, hg96⟩ : ∃ g, g = W95.heap.size := ⟨_, rfl⟩
          rw [← hg96] at hz96 ⊢
          have HG96 : Hid (v91.heap.size ≤ g96) := Lib.hid (by rw [hg96]; exact HL_95.out)
          have HX96_25 : Hid (g ≠ g96) := Lib.hid (by have := RG_95.out.lt; omega)
          have HX96_26 : Hid (gp ≠ g96) := Lib.hid (by have := RX_95.out.lt; omega)
          have HX96_27 : Hid (gq ≠ g96) := Lib.hid (by have := RY_95.out.lt; omega)
          have HX96_28 : Hid (a27_0 ≠ g96) := Lib.hid (by have := Na27_0_95.out.lt; omega)
          have HX96_29 : Hid (a35_0 ≠ g96) := Lib.hid (by have := Na35_0_95.out.lt; omega)
          have HX96_30 : Hid (a54_0 ≠ g96) := Lib.hid (by have := Na54_0_95.out.lt; omega)
          have HX96_31 : Hid (a73_0 ≠ g96) := Lib.hid (by have := Na73_0_95.out.lt; omega)
          have HX96_32 : Hid (g95 ≠ g96) := Lib.hid (by have := RZ95_95.out.lt; omega)
          have RG_96 := Lib.hid (RG_95.out.keep hb96)
          have RX_96 := Lib.hid (RX_95.out.keep hb96)
          have RY_96 := Lib.hid (RY_95.out.keep hb96)
          have Na27_0_96 := Lib.hid (Na27_0_95.out.keep hb96)
          have Na35_0_96 := Lib.hid (Na35_0_95.out.keep hb96)
          have Na54_0_96 := Lib.hid (Na54_0_95.out.keep hb96)
          have Na73_0_96 := Lib.hid (Na73_0_95.out.keep hb96)
          have RZ95_96 := Lib.hid (RZ95_95.out.keep hb96)
          have HF_96 : Hid (Keeps (· = g) w W96) := Lib.hid (HF_95.out.call hb96)
          have HL_96 : Hid (v91.heap.size ≤ W96.heap.size) := Lib.hid (Nat.le_trans HL_95.out hb96.size)
          have RZ96_96 : Hid (RAt W96 g96 [0]) := Lib.hid (zrow (k := 1) hz96)
          clear hb96 hz96 hg96 hW96 HL_95 RG_95 RX_95 RY_95 Na27_0_95 Na35_0_95 Na54_0_95 Na73_0_95 RZ95_95 HF_95
          simp only [Act.put, List.setIfInBounds_toArray, List.set_cons_zero, List.set_cons_succ]
          refine storeW_F (i := 8) (oi := { dst := none, op := Op.store 23 (Operand.tmp 10) (Operand.tmp 72), type := 0, pos := "extended.go:33", after := #[{ on := 6, ground := Ground.data }, { on := 2, ground := Ground.data }, { on := 5, ground := Ground.chain }, { on := 0, ground := Ground.phase }, { on := 1, ground := Ground.phase }, { on := 2, ground := Ground.phase }, { on := 3, ground := Ground.textOnly Departure.lateStores }, { on := 4, ground := Ground.textOnly Departure.lateStores }, { on := 5, ground := Ground.phase }, { on := 6, ground := Ground.phase }, { on := 7, ground := Ground.phase }], guard := none }) rfl (by kernel_rfl) (by rfl) (.tmp 10) (.tmp 72) rfl (g95) 0 0 rfl [0] ox rfl rfl RZ95_96.out (show 0 < 1 by omega) rfl ?_
          intro W97 hr97 hg97 hz97
          simp only [Act.put, List.setIfInBounds_toArray, List.set_cons_zero, List.set_cons_succ]
          have RG_97 := Lib.hid (RG_96.out.grown hg97 (by have := HX95_18.out; simp; omega))
          have RX_97 := Lib.hid (RX_96.out.grown hg97 (by have := HX95_19.out; simp; omega))
          have RY_97 := Lib.hid (RY_96.out.grown hg97 (by have := HX95_20.out; simp; omega))
          have Na27_0_97 := Lib.hid (Na27_0_96.out.grown hg97 (by have := HX95_21.out; simp; omega))
          have Na35_0_97 := Lib.hid (Na35_0_96.out.grown hg97 (by have := HX95_22.out; simp; omega))
          have Na54_0_97 := Lib.hid (Na54_0_96.out.grown hg97 (by have := HX95_23.out; simp; omega))
          have Na73_0_97 := Lib.hid (Na73_0_96.out.grown hg97 (by have := HX95_24.out; simp; omega))
          have RZ95_97 : Hid (RAt W97 g95 [ox]) := Lib.hid hr97
          have RZ96_97 := Lib.hid (RZ96_96.out.grown hg97 (by have := HX96_32.out; simp; omega))
          have HF_97 : Hid (Keeps (· = g) w W97) := Lib.hid (HF_96.out.newrow hg97 (show w.heap.size ≤ g95 from (by have := HG95.out; have := HLO92.out; omega)))
          have HL_97 : Hid (v91.heap.size ≤ W97.heap.size) := Lib.hid (Nat.le_trans HL_96.out hg97.size)
          clear hr97 hg97 hz97 HL_96 RG_96 RX_96 RY_96 Na27_0_96 Na35_0_96 Na54_0_96 Na73_0_96 RZ95_96 RZ96_96 HF_96
          refine storeW_F (i := 9) (oi := { dst := none, op := Op.store 23 (Operand.tmp 11) (Operand.tmp 75), type := 0, pos := "extended.go:33", after := #[{ on := 7, ground := Ground.data }, { on := 5, ground := Ground.data }, { on := 8, ground := Ground.chain }, { on := 0, ground := Ground.phase }, { on := 1, ground := Ground.phase }, { on := 2, ground := Ground.phase }, { on := 3, ground := Ground.phase }, { on := 4, ground := Ground.phase }, { on := 5, ground := Ground.phase }, { on := 6, ground := Ground.phase }, { on := 7, ground := Ground.phase }, { on := 8, ground := Ground.phase }], guard := none }) rfl (by kernel_rfl) (by rfl) (.tmp 11) (.tmp 75) rfl (g96) 0 0 rfl [0] oy rfl rfl RZ96_97.out (show 0 < 1 by omega) rfl ?_
          intro W98 hr98 hg98 hz98
          simp only [Act.put, List.setIfInBounds_toArray, List.set_cons_zero, List.set_cons_succ]
          have RG_98 := Lib.hid (RG_97.out.grown hg98 (by have := HX96_25.out; simp; omega))
          have RX_98 := Lib.hid (RX_97.out.grown hg98 (by have := HX96_26.out; simp; omega))
          have RY_98 := Lib.hid (RY_97.out.grown hg98 (by have := HX96_27.out; simp; omega))
          have Na27_0_98 := Lib.hid (Na27_0_97.out.grown hg98 (by have := HX96_28.out; simp; omega))
          have Na35_0_98 := Lib.hid (Na35_0_97.out.grown hg98 (by have := HX96_29.out; simp; omega))
          have Na54_0_98 := Lib.hid (Na54_0_97.out.grown hg98 (by have := HX96_30.out; simp; omega))
          have Na73_0_98 := Lib.hid (Na73_0_97.out.grown hg98 (by have := HX96_31.out; simp; omega))
          have RZ95_98 := Lib.hid (RZ95_97.out.grown hg98 (by have := HX96_32.out; simp; omega))
          have RZ96_98 : Hid (RAt W98 g96 [oy]) := Lib.hid hr98
          have HF_98 : Hid (Keeps (· = g) w W98) := Lib.hid (HF_97.out.newrow hg98 (show w.heap.size ≤ g96 from (by have := HG96.out; have := HLO92.out; omega)))
          have HL_98 : Hid (v91.heap.size ≤ W98.heap.size) := Lib.hid (Nat.le_trans HL_97.out hg98.size)
          clear hr98 hg98 hz98 HL_97 RG_97 RX_97 RY_97 Na27_0_97 Na35_0_97 Na54_0_97 Na73_0_97 RZ95_97 RZ96_97 HF_97
          refine doneW (by kernel_rfl) ⟨rfl, ?_⟩ _
          exact ⟨g95, g96, RG_98.out, RX_98.out, RY_98.out, Na27_0_98.out, Na35_0_98.out, Na54_0_98.out, Na73_0_98.out, RZ95_98.out, RZ96_98.out, HG95.out, HG96.out, (by have := HX96_32.out; omega), HF_98.out, rfl⟩
        · refine wpOp_value (i := 7) (oi := { dst := some 11, op := Op.alloc 23, type := 0, pos := "extended.go:33", after := #[], guard := none }) rfl (by rfl) (exec_alloc 23 rfl (.agg (zbs 32)) zero23 W94) ⟨fun _ => (below_alloc W94 _).mono HL_94.out, ?_⟩
          obtain ⟨W99, hW99, hb99, hz99⟩ := alloc_zero W94
          rw [← hW99]
          obtain ⟨g99, hg99⟩ : ∃ g, g = W94.heap.size := ⟨_, rfl⟩
          rw [← hg99] at hz99 ⊢
          have HG99 : Hid (v91.heap.size ≤ g99) := Lib.hid (by rw [hg99]; exact HL_94.out)
          have HX99_18 : Hid (g ≠ g99) := Lib.hid (by have := RG_94.out.lt; omega)
          have HX99_19 : Hid (gp ≠ g99) := Lib.hid (by have := RX_94.out.lt; omega)
          have HX99_20 : Hid (gq ≠ g99) := Lib.hid (by have := RY_94.out.lt; omega)
          have HX99_21 : Hid (a27_0 ≠ g99) := Lib.hid (by have := Na27_0_94.out.lt; omega)
          have HX99_22 : Hid (a35_0 ≠ g99) := Lib.hid (by have := Na35_0_94.out.lt; omega)
          have HX99_23 : Hid (a54_0 ≠ g99) := Lib.hid (by have := Na54_0_94.out.lt; omega)
          have HX99_24 : Hid (a73_0 ≠ g99) := Lib.hid (by have := Na73_0_94.out.lt; omega)
          have RG_99 := Lib.hid (RG_94.out.keep hb99)
          have RX_99 := Lib.hid (RX_94.out.keep hb99)
          have RY_99 := Lib.hid (RY_94.out.keep hb99)
          have Na27_0_99 := Lib.hid (Na27_0_94.out.keep hb99)
          have Na35_0_99 := Lib.hid (Na35_0_94.out.keep hb99)
          have Na54_0_99 := Lib.hid (Na54_0_94.out.keep hb99)
          have Na73_0_99 := Lib.hid (Na73_0_94.out.keep hb99)
          have HF_99 : Hid (Keeps (· = g) w W99) := Lib.hid (HF_94.out.call hb99)
          have HL_99 : Hid (v91.heap.size ≤ W99.heap.size) := Lib.hid (Nat.le_trans HL_94.out hb99.size)
          have RZ99_99 : Hid (RAt W99 g99 [0]) := Lib.hid (zrow (k := 1) hz99)
          clear hb99 hz99 hg99 hW99 HL_94 RG_94 RX_94 RY_94 Na27_0_94 Na35_0_94 Na54_0_94 Na73_0_94 HF_94
          simp only [Act.put, List.setIfInBounds_toArray, List.set_cons_zero, List.set_cons_succ]
          refine opW _ _ (i := 6) (oi := { dst := some 10, op := Op.alloc 23, type := 0, pos := "extended.go:33", after := #[], guard := none }) rfl (by kernel_rfl) (by rfl) (exec_alloc 23 rfl (.agg (zbs 32)) zero23 W99) (fun _ => (below_alloc W99 _).mono HL_99.out) ?_
          obtain ⟨W100, hW100, hb100, hz100⟩ := alloc_zero W99
          rw [← hW100]
          obtain ⟨g100, hg100⟩ : ∃ g, g = W99.heap.size := ⟨_, rfl⟩
          rw [← hg100] at hz100 ⊢
          have HG100 : Hid (v91.heap.size ≤ g100) := Lib.hid (by rw [hg100]; exact HL_99.out)
          have HX100_25 : Hid (g ≠ g100) := Lib.hid (by have := RG_99.out.lt; omega)
          have HX100_26 : Hid (gp ≠ g100) := Lib.hid (by have := RX_99.out.lt; omega)
          have HX100_27 : Hid (gq ≠ g100) := Lib.hid (by have := RY_99.out.lt; omega)
          have HX100_28 : Hid (a27_0 ≠ g100) := Lib.hid (by have := Na27_0_99.out.lt; omega)
          have HX100_29 : Hid (a35_0 ≠ g100) := Lib.hid (by have := Na35_0_99.out.lt; omega)
          have HX100_30 : Hid (a54_0 ≠ g100) := Lib.hid (by have := Na54_0_99.out.lt; omega)
          have HX100_31 : Hid (a73_0 ≠ g100) := Lib.hid (by have := Na73_0_99.out.lt; omega)
          have HX100_32 : Hid (g99 ≠ g100) := Lib.hid (by have := RZ99_99.out.lt; omega)
          have RG_100 := Lib.hid (RG_99.out.keep hb100)
          have RX_100 := Lib.hid (RX_99.out.keep hb100)
          have RY_100 := Lib.hid (RY_99.out.keep hb100)
          have Na27_0_100 := Lib.hid (Na27_0_99.out.keep hb100)
          have Na35_0_100 := Lib.hid (Na35_0_99.out.keep hb100)
          have Na54_0_100 := Lib.hid (Na54_0_99.out.keep hb100)
          have Na73_0_100 := Lib.hid (Na73_0_99.out.keep hb100)
          have RZ99_100 := Lib.hid (RZ99_99.out.keep hb100)
          have HF_100 : Hid (Keeps (· = g) w W100) := Lib.hid (HF_99.out.call hb100)
          have HL_100 : Hid (v91.heap.size ≤ W100.heap.size) := Lib.hid (Nat.le_trans HL_99.out hb100.size)
          have RZ100_100 : Hid (RAt W100 g100 [0]) := Lib.hid (zrow (k := 1) hz100)
          clear hb100 hz100 hg100 hW100 HL_99 RG_99 RX_99 RY_99 Na27_0_99 Na35_0_99 Na54_0_99 Na73_0_99 RZ99_99 HF_99
          simp only [Act.put, List.setIfInBounds_toArray, List.set_cons_zero, List.set_cons_succ]
          refine storeW_F (i := 8) (oi := { dst := none, op := Op.store 23 (Operand.tmp 10) (Operand.tmp 72), type := 0, pos := "extended.go:33", after := #[{ on := 6, ground := Ground.data }, { on := 2, ground := Ground.data }, { on := 5, ground := Ground.chain }, { on := 0, ground := Ground.phase }, { on := 1, ground := Ground.phase }, { on := 2, ground := Ground.phase }, { on := 3, ground := Ground.textOnly Departure.lateStores }, { on := 4, ground := Ground.textOnly Departure.lateStores }, { on := 5, ground := Ground.phase }, { on := 6, ground := Ground.phase }, { on := 7, ground := Ground.phase }], guard := none }) rfl (by kernel_rfl) (by rfl) (.tmp 10) (.tmp 72) rfl (g100) 0 0 rfl [0] ox rfl rfl RZ100_100.out (show 0 < 1 by omega) rfl ?_
          intro W101 hr101 hg101 hz101
          simp only [Act.put, List.setIfInBounds_toArray, List.set_cons_zero, List.set_cons_succ]
          have RG_101 := Lib.hid (RG_100.out.grown hg101 (by have := HX100_25.out; simp; omega))
          have RX_101 := Lib.hid (RX_100.out.grown hg101 (by have := HX100_26.out; simp; omega))
          have RY_101 := Lib.hid (RY_100.out.grown hg101 (by have := HX100_27.out; simp; omega))
          have Na27_0_101 := Lib.hid (Na27_0_100.out.grown hg101 (by have := HX100_28.out; simp; omega))
          have Na35_0_101 := Lib.hid (Na35_0_100.out.grown hg101 (by have := HX100_29.out; simp; omega))
          have Na54_0_101 := Lib.hid (Na54_0_100.out.grown hg101 (by have := HX100_30.out; simp; omega))
          have Na73_0_101 := Lib.hid (Na73_0_100.out.grown hg101 (by have := HX100_31.out; simp; omega))
          have RZ99_101 := Lib.hid (RZ99_100.out.grown hg101 (by have := HX100_32.out; simp; omega))
          have RZ100_101 : Hid (RAt W101 g100 [ox]) := Lib.hid hr101
          have HF_101 : Hid (Keeps (· = g) w W101) := Lib.hid (HF_100.out.newrow hg101 (show w.heap.size ≤ g100 from (by have := HG100.out; have := HLO92.out; omega)))
          have HL_101 : Hid (v91.heap.size ≤ W101.heap.size) := Lib.hid (Nat.le_trans HL_100.out hg101.size)
          clear hr101 hg101 hz101 HL_100 RG_100 RX_100 RY_100 Na27_0_100 Na35_0_100 Na54_0_100 Na73_0_100 RZ99_100 RZ100_100 HF_100
          refine storeW_F (i := 9) (oi := { dst := none, op := Op.store 23 (Operand.tmp 11) (Operand.tmp 75), type := 0, pos := "extended.go:33", after := #[{ on := 7, ground := Ground.data }, { on := 5, ground := Ground.data }, { on := 8, ground := Ground.chain }, { on := 0, ground := Ground.phase }, { on := 1, ground := Ground.phase }, { on := 2, ground := Ground.phase }, { on := 3, ground := Ground.phase }, { on := 4, ground := Ground.phase }, { on := 5, ground := Ground.phase }, { on := 6, ground := Ground.phase }, { on := 7, ground := Ground.phase }, { on := 8, ground := Ground.phase }], guard := none }) rfl (by kernel_rfl) (by rfl) (.tmp 11) (.tmp 75) rfl (g99) 0 0 rfl [0] oy rfl rfl RZ99_101.out (show 0 < 1 by omega) rfl ?_
          intro W102 hr102 hg102 hz102
          simp only [Act.put, List.setIfInBounds_toArray, List.set_cons_zero, List.set_cons_succ]
          have RG_102 := Lib.hid (RG_101.out.grown hg102 (by have := HX99_18.out; simp; omega))
          have RX_102 := Lib.hid (RX_101.out.grown hg102 (by have := HX99_19.out; simp; omega))
          have RY_102 := Lib.hid (RY_101.out.grown hg102 (by have := HX99_20.out; simp; omega))
          have Na27_0_102 := Lib.hid (Na27_0_101.out.grown hg102 (by have := HX99_21.out; simp; omega))
          have Na35_0_102 := Lib.hid (Na35_0_101.out.grown hg102 (by have := HX99_22.out; simp; omega))
          have Na54_0_102 := Lib.hid (Na54_0_101.out.grown hg102 (by have := HX99_23.out; simp; omega))
          have Na73_0_102 := Lib.hid (Na73_0_101.out.grown hg102 (by have := HX99_24.out; simp; omega))
          have RZ99_102 : Hid (RAt W102 g99 [oy]) := Lib.hid hr102
          have RZ100_102 := Lib.hid (RZ100_101.out.grown hg102 (by have := HX100_32.out; simp; omega))
          have HF_102 : Hid (Keeps (· = g) w W102) := Lib.hid (HF_101.out.newrow hg102 (show w.heap.size ≤ g99 from (by have := HG99.out; have := HLO92.out; omega)))
          have HL_102 : Hid (v91.heap.size ≤ W102.heap.size) := Lib.hid (Nat.le_trans HL_101.out hg102.size)
          clear hr102 hg102 hz102 HL_101 RG_101 RX_101 RY_101 Na27_0_101 Na35_0_101 Na54_0_101 Na73_0_101 RZ99_101 RZ100_101 HF_101
          refine doneW (by kernel_rfl) ⟨rfl, ?_⟩ _
          exact ⟨g100, g99, RG_102.out, RX_102.out, RY_102.out, Na27_0_102.out, Na35_0_102.out, Na54_0_102.out, Na73_0_102.out, RZ100_102.out, RZ99_102.out, HG100.out, HG99.out, (by have := HX100_32.out; omega), HF_102.out, rfl⟩
      · refine wpOp_value (i := 6) (oi := { dst := some 10, op := Op.alloc 23, type := 0, pos := "extended.go:33", after := #[], guard := none }) rfl (by rfl) (exec_alloc 23 rfl (.agg (zbs 32)) zero23 W93) ⟨fun _ => (below_alloc W93 _).mono HL_93.out, ?_⟩
        obtain ⟨W103, hW103, hb103, hz103⟩ := alloc_zero W93
        rw [← hW103]
        obtain ⟨g103, hg103⟩ : ∃ g, g = W93.heap.size := ⟨_, rfl⟩
        rw [← hg103] at hz103 ⊢
        have HG103 : Hid (v91.heap.size ≤ g103) := Lib.hid (by rw [hg103]; exact HL_93.out)
        have HX103_18 : Hid (g ≠ g103) := Lib.hid (by have := RG_93.out.lt; omega)
        have HX103_19 : Hid (gp ≠ g103) := Lib.hid (by have := RX_93.out.lt; omega)
        have HX103_20 : Hid (gq ≠ g103) := Lib.hid (by have := RY_93.out.lt; omega)
        have HX103_21 : Hid (a27_0 ≠ g103) := Lib.hid (by have := Na27_0_93.out.lt; omega)
        have HX103_22 : Hid (a35_0 ≠ g103) := Lib.hid (by have := Na35_0_93.out.lt; omega)
        have HX103_23 : Hid (a54_0 ≠ g103) := Lib.hid (by have := Na54_0_93.out.lt; omega)
        have HX103_24 : Hid (a73_0 ≠ g103) := Lib.hid (by have := Na73_0_93.out.lt; omega)
        have RG_103 := Lib.hid (RG_93.out.keep hb103)
        have RX_103 := Lib.hid (RX_93.out.keep hb103)
        have RY_103 := Lib.hid (RY_93.out.keep hb103)
        have Na27_0_103 := Lib.hid (Na27_0_93.out.keep hb103)
        have Na35_0_103 := Lib.hid (Na35_0_93.out.keep hb103)
        have Na54_0_103 := Lib.hid (Na54_0_93.out.keep hb103)
        have Na73_0_103 := Lib.hid (Na73_0_93.out.keep hb103)
        have HF_103 : Hid (Keeps (· = g) w W103) := Lib.hid (HF_93.out.call hb103)
        have HL_103 : Hid (v91.heap.size ≤ W103.heap.size) := Lib.hid (Nat.le_trans HL_93.out hb103.size)
        have RZ103_103 : Hid (RAt W103 g103 [0]) := Lib.hid (zrow (k := 1) hz103)
        clear hb103 hz103 hg103 hW103 HL_93 RG_93 RX_93 RY_93 Na27_0_93 Na35_0_93 Na54_0_93 Na73_0_93 HF_93
        simp only [Act.put, List.setIfInBounds_toArray, List.set_cons_zero, List.set_cons_succ]
        refine eachW [5, 7] (by kernel_rfl) (by simp) ?_
        intro k hk
        simp only [List.mem_cons, List.not_mem_nil, or_false] at hk
        rcases hk with rfl | rfl
        · refine wpOp_call (i := 5) (oi := { dst := some 75, op := Op.call { callee := Callee.value (Operand.func 21), args := #[Operand.tmp 73, Operand.tmp 74], argTypes := #[23, 23] }, type := 23, pos := "extended.go:33", after := #[{ on := 3, ground := Ground.data }, { on := 4, ground := Ground.data }, { on := 2, ground := Ground.chain }], guard := none }) rfl (by rfl) (exec_callL 21 [.tmp 73, .tmp 74] #[23, 23] rfl [vN one, vN d] rfl (CG21 _)) ((C11.out W103).mono ?_)
          rintro e104 W104 ⟨rfl, hb104⟩
          refine ⟨_, rfl, fun _ => hb104.mono HL_103.out, ?_⟩
          have RG_104 := Lib.hid (RG_103.out.keep hb104)
          have RX_104 := Lib.hid (RX_103.out.keep hb104)
          have RY_104 := Lib.hid (RY_103.out.keep hb104)
          have Na27_0_104 := Lib.hid (Na27_0_103.out.keep hb104)
          have Na35_0_104 := Lib.hid (Na35_0_103.out.keep hb104)
          have Na54_0_104 := Lib.hid (Na54_0_103.out.keep hb104)
          have Na73_0_104 := Lib.hid (Na73_0_103.out.keep hb104)
          have RZ103_104 := Lib.hid (RZ103_103.out.keep hb104)
          have HF_104 : Hid (Keeps (· = g) w W104) := Lib.hid (HF_103.out.call hb104)
          have HL_104 : Hid (v91.heap.size ≤ W104.heap.size) := Lib.hid (Nat.le_trans HL_103.out hb104.size)
          clear hb104 HL_103 RG_103 RX_103 RY_103 Na27_0_103 Na35_0_103 Na54_0_103 Na73_0_103 RZ103_103 HF_103
          simp only [Act.put, List.setIfInBounds_toArray, List.set_cons_zero, List.set_cons_succ]
          refine opW _ _ (i := 7) (oi := { dst := some 11, op := Op.alloc 23, type := 0, pos := "extended.go:33", after := #[], guard := none }) rfl (by kernel_rfl) (by rfl) (exec_alloc 23 rfl (.agg (zbs 32)) zero23 W104) (fun _ => (below_alloc W104 _).mono HL_104.out) ?_
          obtain ⟨W105, hW105, hb105, hz105⟩ := alloc_zero W104
          rw [← hW105]
          obtain ⟨g105, hg105⟩ : ∃ g, g = W104.heap.size := ⟨_, rfl⟩
          rw [← hg105] at hz105 ⊢
          have HG105 : Hid (v91.heap.size ≤ g105) := Lib.hid (by rw [hg105]; exact HL_104.out)
          have HX105_25 : Hid (g ≠ g105) := Lib.hid (by have := RG_104.out.lt; omega)
          have HX105_26 : Hid (gp ≠ g105) := Lib.hid (by have := RX_104.out.lt; omega)
          have HX105_27 : Hid (gq ≠ g105) := Lib.hid (by have := RY_104.out.lt; omega)
          have HX105_28 : Hid (a27_0 ≠ g105) := Lib.hid (by have := Na27_0_104.out.lt; omega)
          have HX105_29 : Hid (a35_0 ≠ g105) := Lib.hid (by have := Na35_0_104.out.lt; omega)
          have HX105_30 : Hid (a54_0 ≠ g105) := Lib.hid (by have := Na54_0_104.out.lt; omega)
          have HX105_31 : Hid (a73_0 ≠ g105) := Lib.hid (by have := Na73_0_104.out.lt; omega)
          have HX105_32 : Hid (g103 ≠ g105) := Lib.hid (by have := RZ103_104.out.lt; omega)
          have RG_105 := Lib.hid (RG_104.out.keep hb105)
          have RX_105 := Lib.hid (RX_104.out.keep hb105)
          have RY_105 := Lib.hid (RY_104.out.keep hb105)
          have Na27_0_105 := Lib.hid (Na27_0_104.out.keep hb105)
          have Na35_0_105 := Lib.hid (Na35_0_104.out.keep hb105)
          have Na54_0_105 := Lib.hid (Na54_0_104.out.keep hb105)
          have Na73_0_105 := Lib.hid (Na73_0_104.out.keep hb105)
          have RZ103_105 := Lib.hid (RZ103_104.out.keep hb105)
          have HF_105 : Hid (Keeps (· = g) w W105) := Lib.hid (HF_104.out.call hb105)
          have HL_105 : Hid (v91.heap.size ≤ W105.heap.size) := Lib.hid (Nat.le_trans HL_104.out hb105.size)
          have RZ105_105 : Hid (RAt W105 g105 [0]) := Lib.hid (zrow (k := 1) hz105)
          clear hb105 hz105 hg105 hW105 HL_104 RG_104 RX_104 RY_104 Na27_0_104 Na35_0_104 Na54_0_104 Na73_0_104 RZ103_104 HF_104
          simp only [Act.put, List.setIfInBounds_toArray, List.set_cons_zero, List.set_cons_succ]
          refine storeW_F (i := 8) (oi := { dst := none, op := Op.store 23 (Operand.tmp 10) (Operand.tmp 72), type := 0, pos := "extended.go:33", after := #[{ on := 6, ground := Ground.data }, { on := 2, ground := Ground.data }, { on := 5, ground := Ground.chain }, { on := 0, ground := Ground.phase }, { on := 1, ground := Ground.phase }, { on := 2, ground := Ground.phase }, { on := 3, ground := Ground.textOnly Departure.lateStores }, { on := 4, ground := Ground.textOnly Departure.lateStores }, { on := 5, ground := Ground.phase }, { on := 6, ground := Ground.phase }, { on := 7, ground := Ground.phase }], guard := none }) rfl (by kernel_rfl) (by rfl) (.tmp 10) (.tmp 72) rfl (g103) 0 0 rfl [0] ox rfl rfl RZ103_105.out (show 0 < 1 by omega) rfl ?_
          intro W106 hr106 hg106 hz106
          simp only [Act.put, List.setIfInBounds_toArray, List.set_cons_zero, List.set_cons_succ]
          have RG_106 := Lib.hid (RG_105.out.grown hg106 (by have := HX103_18.out; simp; omega))
          have RX_106 := Lib.hid (RX_105.out.grown hg106 (by have := HX103_19.out; simp; omega))
          have RY_106 := Lib.hid (RY_105.out.grown hg106 (by have := HX103_20.out; simp; omega))
          have Na27_0_106 := Lib.hid (Na27_0_105.out.grown hg106 (by have := HX103_21.out; simp; omega))
          have Na35_0_106 := Lib.hid (Na35_0_105.out.grown hg106 (by have := HX103_22.out; simp; omega))
          have Na54_0_106 := Lib.hid (Na54_0_105.out.grown hg106 (by have := HX103_23.out; simp; omega))
          have Na73_0_106 := Lib.hid (Na73_0_105.out.grown hg106 (by have := HX103_24.out; simp; omega))
          have RZ103_106 : Hid (RAt W106 g103 [ox]) := Lib.hid hr106
          have RZ105_106 := Lib.hid (RZ105_105.out.grown hg106 (by have := HX105_32.out; simp; omega))
          have HF_106 : Hid (Keeps (· = g) w W106) := Lib.hid (HF_105.out.newrow hg106 (show w.heap.size ≤ g103 from (by have := HG103.out; have := HLO92.out; omega)))
          have HL_106 : Hid (v91.heap.size ≤ W106.heap.size) := Lib.hid (Nat.le_trans HL_105.out hg106.size)
          clear hr106 hg106 hz106 HL_105 RG_105 RX_105 RY_105 Na27_0_105 Na35_0_105 Na54_0_105 Na73_0_105 RZ103_105 RZ105_105 HF_105
          refine storeW_F (i := 9) (oi := { dst := none, op := Op.store 23 (Operand.tmp 11) (Operand.tmp 75), type := 0, pos := "extended.go:33", after := #[{ on := 7, ground := Ground.data }, { on := 5, ground := Ground.data }, { on := 8, ground := Ground.chain }, { on := 0, ground := Ground.phase }, { on := 1, ground := Ground.phase }, { on := 2, ground := Ground.phase }, { on := 3, ground := Ground.phase }, { on := 4, ground := Ground.phase }, { on := 5, ground := Ground.phase }, { on := 6, ground := Ground.phase }, { on := 7, ground := Ground.phase }, { on := 8, ground := Ground.phase }], guard := none }) rfl (by kernel_rfl) (by rfl) (.tmp 11) (.tmp 75) rfl (g105) 0 0 rfl [0] oy rfl rfl RZ105_106.out (show 0 < 1 by omega) rfl ?_
          intro W107 hr107 hg107 hz107
          simp only [Act.put, List.setIfInBounds_toArray, List.set_cons_zero, List.set_cons_succ]
          have RG_107 := Lib.hid (RG_106.out.grown hg107 (by have := HX105_25.out; simp; omega))
          have RX_107 := Lib.hid (RX_106.out.grown hg107 (by have := HX105_26.out; simp; omega))
          have RY_107 := Lib.hid (RY_106.out.grown hg107 (by have := HX105_27.out; simp; omega))
          have Na27_0_107 := Lib.hid (Na27_0_106.out.grown hg107 (by have := HX105_28.out; simp; omega))
          have Na35_0_107 := Lib.hid (Na35_0_106.out.grown hg107 (by have := HX105_29.out; simp; omega))
          have Na54_0_107 := Lib.hid (Na54_0_106.out.grown hg107 (by have := HX105_30.out; simp; omega))
          have Na73_0_107 := Lib.hid (Na73_0_106.out.grown hg107 (by have := HX105_31.out; simp; omega))
          have RZ103_107 := Lib.hid (RZ103_106.out.grown hg107 (by have := HX105_32.out; simp; omega))
          have RZ105_107 : Hid (RAt W107 g105 [oy]) := Lib.hid hr107
          have HF_107 : Hid (Keeps (· = g) w W107) := Lib.hid (HF_106.out.newrow hg107 (show w.heap.size ≤ g105 from (by have := HG105.out; have := HLO92.out; omega)))
          have HL_107 : Hid (v91.heap.size ≤ W107.heap.size) := Lib.hid (Nat.le_trans HL_106.out hg107.size)
          clear hr107 hg107 hz107 HL_106 RG_106 RX_106 RY_106 Na27_0_106 Na35_0_106 Na54_0_106 Na73_0_106 RZ103_106 RZ105_106 HF_106
          refine doneW (by kernel_rfl) ⟨rfl, ?_⟩ _
          exact ⟨g103, g105, RG_107.out, RX_107.out, RY_107.out, Na27_0_107.out, Na35_0_107.out, Na54_0_107.out, Na73_0_107.out, RZ103_107.out, RZ105_107.out, HG103.out, HG105.out, (by have := HX105_32.out; omega), HF_107.out, rfl⟩
        · refine wpOp_value (i := 7) (oi := { dst := some 11, op := Op.alloc 23, type := 0, pos := "extended.go:33", after := #[], guard := none }) rfl (by rfl) (exec_alloc 23 rfl (.agg (zbs 32)) zero23 W103) ⟨fun _ => (below_alloc W103 _).mono HL_103.out, ?_⟩
          obtain ⟨W108, hW108, hb108, hz108⟩ := alloc_zero W103
          rw [← hW108]
          obtain ⟨g108, hg108⟩ : ∃ g, g = W103.heap.size := ⟨_, rfl⟩
          rw [← hg108] at hz108 ⊢
          have HG108 : Hid (v91.heap.size ≤ g108) := Lib.hid (by rw [hg108]; exact HL_103.out)
          have HX108_25 : Hid (g ≠ g108) := Lib.hid (by have := RG_103.out.lt; omega)
          have HX108_26 : Hid (gp ≠ g108) := Lib.hid (by have := RX_103.out.lt; omega)
          have HX108_27 : Hid (gq ≠ g108) := Lib.hid (by have := RY_103.out.lt; omega)
          have HX108_28 : Hid (a27_0 ≠ g108) := Lib.hid (by have := Na27_0_103.out.lt; omega)
          have HX108_29 : Hid (a35_0 ≠ g108) := Lib.hid (by have := Na35_0_103.out.lt; omega)
          have HX108_30 : Hid (a54_0 ≠ g108) := Lib.hid (by have := Na54_0_103.out.lt; omega)
          have HX108_31 : Hid (a73_0 ≠ g108) := Lib.hid (by have := Na73_0_103.out.lt; omega)
          have HX108_32 : Hid (g103 ≠ g108) := Lib.hid (by have := RZ103_103.out.lt; omega)
          have RG_108 := Lib.hid (RG_103.out.keep hb108)
          have RX_108 := Lib.hid (RX_103.out.keep hb108)
          have RY_108 := Lib.hid (RY_103.out.keep hb108)
          have Na27_0_108 := Lib.hid (Na27_0_103.out.keep hb108)
          have Na35_0_108 := Lib.hid (Na35_0_103.out.keep hb108)
          have Na54_0_108 := Lib.hid (Na54_0_103.out.keep hb108)
          have Na73_0_108 := Lib.hid (Na73_0_103.out.keep hb108)
          have RZ103_108 := Lib.hid (RZ103_103.out.keep hb108)
          have HF_108 : Hid (Keeps (· = g) w W108) := Lib.hid (HF_103.out.call hb108)
          have HL_108 : Hid (v91.heap.size ≤ W108.heap.size) := Lib.hid (Nat.le_trans HL_103.out hb108.size)
          have RZ108_108 : Hid (RAt W108 g108 [0]) := Lib.hid (zrow (k := 1) hz108)
          clear hb108 hz108 hg108 hW108 HL_103 RG_103 RX_103 RY_103 Na27_0_103 Na35_0_103 Na54_0_103 Na73_0_103 RZ103_103 HF_103
          simp only [Act.put, List.setIfInBounds_toArray, List.set_cons_zero, List.set_cons_succ]
          refine callW (i := 5) (oi := { dst := some 75, op := Op.call { callee := Callee.value (Operand.func 21), args := #[Operand.tmp 73, Operand.tmp 74], argTypes := #[23, 23] }, type := 23, pos := "extended.go:33", after := #[{ on := 3, ground := Ground.data }, { on := 4, ground := Ground.data }, { on := 2, ground := Ground.chain }], guard := none }) rfl (by kernel_rfl) (by rfl) (exec_callL 21 [.tmp 73, .tmp 74] #[23, 23] rfl [vN one, vN d] rfl (CG21 _)) ((C11.out W108).mono ?_)
          rintro e109 W109 ⟨rfl, hb109⟩
          refine ⟨_, rfl, fun _ => hb109.mono HL_108.out, ?_⟩
          have RG_109 := Lib.hid (RG_108.out.keep hb109)
          have RX_109 := Lib.hid (RX_108.out.keep hb109)
          have RY_109 := Lib.hid (RY_108.out.keep hb109)
          have Na27_0_109 := Lib.hid (Na27_0_108.out.keep hb109)
          have Na35_0_109 := Lib.hid (Na35_0_108.out.keep hb109)
          have Na54_0_109 := Lib.hid (Na54_0_108.out.keep hb109)
          have Na73_0_109 := Lib.hid (Na73_0_108.out.keep hb109)
          have RZ103_109 := Lib.hid (RZ103_108.out.keep hb109)
          have RZ108_109 := Lib.hid (RZ108_108.out.keep hb109)
          have HF_109 : Hid (Keeps (· = g) w W109) := Lib.hid (HF_108.out.call hb109)
          have HL_109 : Hid (v91.heap.size ≤ W109.heap.size) := Lib.hid (Nat.le_trans HL_108.out hb109.size)
          clear hb109 HL_108 RG_108 RX_108 RY_108 Na27_0_108 Na35_0_108 Na54_0_108 Na73_0_108 RZ103_108 RZ108_108 HF_108
          simp only [Act.put, List.setIfInBounds_toArray, List.set_cons_zero, List.set_cons_succ]
          refine storeW_F (i := 8) (oi := { dst := none, op := Op.store 23 (Operand.tmp 10) (Operand.tmp 72), type := 0, pos := "extended.go:33", after := #[{ on := 6, ground := Ground.data }, { on := 2, ground := Ground.data }, { on := 5, ground := Ground.chain }, { on := 0, ground := Ground.phase }, { on := 1, ground := Ground.phase }, { on := 2, ground := Ground.phase }, { on := 3, ground := Ground.textOnly Departure.lateStores }, { on := 4, ground := Ground.textOnly Departure.lateStores }, { on := 5, ground := Ground.phase }, { on := 6, ground := Ground.phase }, { on := 7, ground := Ground.phase }], guard := none }) rfl (by kernel_rfl) (by rfl) (.tmp 10) (.tmp 72) rfl (g103) 0 0 rfl [0] ox rfl rfl RZ103_109.out (show 0 < 1 by omega) rfl ?_
          intro W110 hr110 hg110 hz110
          simp only [Act.put, List.setIfInBounds_toArray, List.set_cons_zero, List.set_cons_succ]
          have RG_110 := Lib.hid (RG_109.out.grown hg110 (by have := HX103_18.out; simp; omega))
          have RX_110 := Lib.hid (RX_109.out.grown hg110 (by have := HX103_19.out; simp; omega))
          have RY_110 := Lib.hid (RY_109.out.grown hg110 (by have := HX103_20.out; simp; omega))
          have Na27_0_110 := Lib.hid (Na27_0_109.out.grown hg110 (by have := HX103_21.out; simp; omega))
          have Na35_0_110 := Lib.hid (Na35_0_109.out.grown hg110 (by have := HX103_22.out; simp; omega))
          have Na54_0_110 := Lib.hid (Na54_0_109.out.grown hg110 (by have := HX103_23.out; simp; omega))
          have Na73_0_110 := Lib.hid (Na73_0_109.out.grown hg110 (by have := HX103_24.out; simp; omega))
          have RZ103_110 : Hid (RAt W110 g103 [ox]) := Lib.hid hr110
          have RZ108_110 := Lib.hid (RZ108_109.out.grown hg110 (by have := HX108_32.out; simp; omega))
          have HF_110 : Hid (Keeps (· = g) w W110) := Lib.hid (HF_109.out.newrow hg110 (show w.heap.size ≤ g103 from (by have := HG103.out; have := HLO92.out; omega)))
          have HL_110 : Hid (v91.heap.size ≤ W110.heap.size) := Lib.hid (Nat.le_trans HL_109.out hg110.size)
          clear hr110 hg110 hz110 HL_109 RG_109 RX_109 RY_109 Na27_0_109 Na35_0_109 Na54_0_109 Na73_0_109 RZ103_109 RZ108_109 HF_109
          refine storeW_F (i := 9) (oi := { dst := none, op := Op.store 23 (Operand.tmp 11) (Operand.tmp 75), type := 0, pos := "extended.go:33", after := #[{ on := 7, ground := Ground.data }, { on := 5, ground := Ground.data }, { on := 8, ground := Ground.chain }, { on := 0, ground := Ground.phase }, { on := 1, ground := Ground.phase }, { on := 2, ground := Ground.phase }, { on := 3, ground := Ground.phase }, { on := 4, ground := Ground.phase }, { on := 5, ground := Ground.phase }, { on := 6, ground := Ground.phase }, { on := 7, ground := Ground.phase }, { on := 8, ground := Ground.phase }], guard := none }) rfl (by kernel_rfl) (by rfl) (.tmp 11) (.tmp 75) rfl (g108) 0 0 rfl [0] oy rfl rfl RZ108_110.out (show 0 < 1 by omega) rfl ?_
          intro W111 hr111 hg111 hz111
          simp only [Act.put, List.setIfInBounds_toArray, List.set_cons_zero, List.set_cons_succ]
          have RG_111 := Lib.hid (RG_110.out.grown hg111 (by have := HX108_25.out; simp; omega))
          have RX_111 := Lib.hid (RX_110.out.grown hg111 (by have := HX108_26.out; simp; omega))
          have RY_111 := Lib.hid (RY_110.out.grown hg111 (by have := HX108_27.out; simp; omega))
          have Na27_0_111 := Lib.hid (Na27_0_110.out.grown hg111 (by have := HX108_28.out; simp; omega))
          have Na35_0_111 := Lib.hid (Na35_0_110.out.grown hg111 (by have := HX108_29.out; simp; omega))
          have Na54_0_111 := Lib.hid (Na54_0_110.out.grown hg111 (by have := HX108_30.out; simp; omega))
          have Na73_0_111 := Lib.hid (Na73_0_110.out.grown hg111 (by have := HX108_31.out; simp; omega))
          have RZ103_111 := Lib.hid (RZ103_110.out.grown hg111 (by have := HX108_32.out; simp; omega))
          have RZ108_111 : Hid (RAt W111 g108 [oy]) := Lib.hid hr111
          have HF_111 : Hid (Keeps (· = g) w W111) := Lib.hid (HF_110.out.newrow hg111 (show w.heap.size ≤ g108 from (by have := HG108.out; have := HLO92.out; omega)))
          have HL_111 : Hid (v91.heap.size ≤ W111.heap.size) := Lib.hid (Nat.le_trans HL_110.out hg111.size)
          clear hr111 hg111 hz111 HL_110 RG_110 RX_110 RY_110 Na27_0_110 Na35_0_110 Na54_0_110 Na73_0_110 RZ103_110 RZ108_110 HF_110
          refine doneW (by kernel_rfl) ⟨rfl, ?_⟩ _
          exact ⟨g103, g108, RG_111.out, RX_111.out, RY_111.out, Na27_0_111.out, Na35_0_111.out, Na54_0_111.out, Na73_0_111.out, RZ103_111.out, RZ108_111.out, HG103.out, HG108.out, (by have := HX108_32.out; omega), HF_111.out, rfl⟩
      · refine wpOp_value (i := 7) (oi := { dst := some 11, op := Op.alloc 23, type := 0, pos := "extended.go:33", after := #[], guard := none }) rfl (by rfl) (exec_alloc 23 rfl (.agg (zbs 32)) zero23 W93) ⟨fun _ => (below_alloc W93 _).mono HL_93.out, ?_⟩
        obtain ⟨W112, hW112, hb112, hz112⟩ := alloc_zero W93
        rw [← hW112]
        obtain ⟨g112, hg112⟩ : ∃ g, g = W93.heap.size := ⟨_, rfl⟩
        rw [← hg112] at hz112 ⊢
        have HG112 : Hid (v91.heap.size ≤ g112) := Lib.hid (by rw [hg112]; exact HL_93.out)
        have HX112_18 : Hid (g ≠ g112) := Lib.hid (by have := RG_93.out.lt; omega)
        have HX112_19 : Hid (gp ≠ g112) := Lib.hid (by have := RX_93.out.lt; omega)
        have HX112_20 : Hid (gq ≠ g112) := Lib.hid (by have := RY_93.out.lt; omega)
        have HX112_21 : Hid (a27_0 ≠ g112) := Lib.hid (by have := Na27_0_93.out.lt; omega)
        have HX112_22 : Hid (a35_0 ≠ g112) := Lib.hid (by have := Na35_0_93.out.lt; omega)
        have HX112_23 : Hid (a54_0 ≠ g112) := Lib.hid (by have := Na54_0_93.out.lt; omega)
        have HX112_24 : Hid (a73_0 ≠ g112) := Lib.hid (by have := Na73_0_93.out.lt; omega)
        have RG_112 := Lib.hid (RG_93.out.keep hb112)
        have RX_112 := Lib.hid (RX_93.out.keep hb112)
        have RY_112 := Lib.hid (RY_93.out.keep hb112)
        have Na27_0_112 := Lib.hid (Na27_0_93.out.keep hb112)
        have Na35_0_112 := Lib.hid (Na35_0_93.out.keep hb112)
        have Na54_0_112 := Lib.hid (Na54_0_93.out.keep hb112)
        have Na73_0_112 := Lib.hid (Na73_0_93.out.keep hb112)
        have HF_112 : Hid (Keeps (· = g) w W112) := Lib.hid (HF_93.out.call hb112)
        have HL_112 : Hid (v91.heap.size ≤ W112.heap.size) := Lib.hid (Nat.le_trans HL_93.out hb112.size)
        have RZ112_112 : Hid (RAt W112 g112 [0]) := Lib.hid (zrow (k := 1) hz112)
        clear hb112 hz112 hg112 hW112 HL_93 RG_93 RX_93 RY_93 Na27_0_93 Na35_0_93 Na54_0_93 Na73_0_93 HF_93
        simp only [Act.put, List.setIfInBounds_toArray, List.set_cons_zero, List.set_cons_succ]
        refine eachW [5, 6] (by kernel_rfl) (by simp) ?_
        intro k hk
        simp only [List.mem_cons, List.not_mem_nil, or_false] at hk
        rcases hk with rfl | rfl
        · refine wpOp_call (i := 5) (oi := { dst := some 75, op := Op.call { callee := Callee.value (Operand.func 21), args := #[Operand.tmp 73, Operand.tmp 74], argTypes := #[23, 23] }, type := 23, pos := "extended.go:33", after := #[{ on := 3, ground := Ground.data }, { on := 4, ground := Ground.data }, { on := 2, ground := Ground.chain }], guard := none }) rfl (by rfl) (exec_callL 21 [.tmp 73, .tmp 74] #[23, 23] rfl [vN one, vN d] rfl (CG21 _)) ((C11.out W112).mono ?_)
          rintro e113 W113 ⟨rfl, hb113⟩
          refine ⟨_, rfl, fun _ => hb113.mono HL_112.out, ?_⟩
          have RG_113 := Lib.hid (RG_112.out.keep hb113)
          have RX_113 := Lib.hid (RX_112.out.keep hb113)
          have RY_113 := Lib.hid (RY_112.out.keep hb113)
          have Na27_0_113 := Lib.hid (Na27_0_112.out.keep hb113)
          have Na35_0_113 := Lib.hid (Na35_0_112.out.keep hb113)
          have Na54_0_113 := Lib.hid (Na54_0_112.out.keep hb113)
          have Na73_0_113 := Lib.hid (Na73_0_112.out.keep hb113)
          have RZ112_113 := Lib.hid (RZ112_112.out.keep hb113)
          have HF_113 : Hid (Keeps (· = g) w W113) := Lib.hid (HF_112.out.call hb113)
          have HL_113 : Hid (v91.heap.size ≤ W113.heap.size) := Lib.hid (Nat.le_trans HL_112.out hb113.size)
          clear hb113 HL_112 RG_112 RX_112 RY_112 Na27_0_112 Na35_0_112 Na54_0_112 Na73_0_112 RZ112_112 HF_112
          simp only [Act.put, List.setIfInBounds_toArray, List.set_cons_zero, List.set_cons_succ]
          refine opW _ _ (i := 6) (oi := { dst := some 10, op := Op.alloc 23, type := 0, pos := "extended.go:33", after := #[], guard := none }) rfl (by kernel_rfl) (by rfl) (exec_alloc 23 rfl (.agg (zbs 32)) zero23 W113) (fun _ => (below_alloc W113 _).mono HL_113.out) ?_
          obtain ⟨W114, hW114, hb114, hz114⟩ := alloc_zero W113
          rw [← hW114]
          obtain ⟨g114, hg114⟩ : ∃ g, g = W113.heap.size := ⟨_, rfl⟩
          rw [← hg114] at hz114 ⊢
          have HG114 : Hid (v91.heap.size ≤ g114) := Lib.hid (by rw [hg114]; exact HL_113.out)
          have HX114_25 : Hid (g ≠ g114) := Lib.hid (by have := RG_113.out.lt; omega)
          have HX114_26 : Hid (gp ≠ g114) := Lib.hid (by have := RX_113.out.lt; omega)
          have HX114_27 : Hid (gq ≠ g114) := Lib.hid (by have := RY_113.out.lt; omega)
          have HX114_28 : Hid (a27_0 ≠ g114) := Lib.hid (by have := Na27_0_113.out.lt; omega)
          have HX114_29 : Hid (a35_0 ≠ g114) := Lib.hid (by have := Na35_0_113.out.lt; omega)
          have HX114_30 : Hid (a54_0 ≠ g114) := Lib.hid (by have := Na54_0_113.out.lt; omega)
          have HX114_31 : Hid (a73_0 ≠ g114) := Lib.hid (by have := Na73_0_113.out.lt; omega)
          have HX114_32 : Hid (g112 ≠ g114) := Lib.hid (by have := RZ112_113.out.lt; omega)
          have RG_114 := Lib.hid (RG_113.out.keep hb114)
          have RX_114 := Lib.hid (RX_113.out.keep hb114)
          have RY_114 := Lib.hid (RY_113.out.keep hb114)
          have Na27_0_114 := Lib.hid (Na27_0_113.out.keep hb114)
          have Na35_0_114 := Lib.hid (Na35_0_113.out.keep hb114)
          have Na54_0_114 := Lib.hid (Na54_0_113.out.keep hb114)
          have Na73_0_114 := Lib.hid (Na73_0_113.out.keep hb114)
          have RZ112_114 := Lib.hid (RZ112_113.out.keep hb114)
          have HF_114 : Hid (Keeps (· = g) w W114) := Lib.hid (HF_113.out.call hb114)
          have HL_114 : Hid (v91.heap.size ≤ W114.heap.size) := Lib.hid (Nat.le_trans HL_113.out hb114.size)
          have RZ114_114 : Hid (RAt W114 g114 [0]) := Lib.hid (zrow (k := 1) hz114)
          clear hb114 hz114 hg114 hW114 HL_113 RG_113 RX_113 RY_113 Na27_0_113 Na35_0_113 Na54_0_113 Na73_0_113 RZ112_113 HF_113
          simp only [Act.put, List.setIfInBounds_toArray, List.set_cons_zero, List.set_cons_succ]
          refine storeW_F (i := 8) (oi := { dst := none, op := Op.store 23 (Operand.tmp 10) (Operand.tmp 72), type := 0, pos := "extended.go:33", after := #[{ on := 6, ground := Ground.data }, { on := 2, ground := Ground.data }, { on := 5, ground := Ground.chain }, { on := 0, ground := Ground.phase }, { on := 1, ground := Ground.phase }, { on := 2, ground := Ground.phase }, { on := 3, ground := Ground.textOnly Departure.lateStores }, { on := 4, ground := Ground.textOnly Departure.lateStores }, { on := 5, ground := Ground.phase }, { on := 6, ground := Ground.phase }, { on := 7, ground := Ground.phase }], guard := none }) rfl (by kernel_rfl) (by rfl) (.tmp 10) (.tmp 72) rfl (g114) 0 0 rfl [0] ox rfl rfl RZ114_114.out (show 0 < 1 by omega) rfl ?_
          intro W115 hr115 hg115 hz115
          simp only [Act.put, List.setIfInBounds_toArray, List.set_cons_zero, List.set_cons_succ]
          have RG_115 := Lib.hid (RG_114.out.grown hg115 (by have := HX114_25.out; simp; omega))
          have RX_115 := Lib.hid (RX_114.out.grown hg115 (by have := HX114_26.out; simp; omega))
          have RY_115 := Lib.hid (RY_114.out.grown hg115 (by have := HX114_27.out; simp; omega))
          have Na27_0_115 := Lib.hid (Na27_0_114.out.grown hg115 (by have := HX114_28.out; simp; omega))
          have Na35_0_115 := Lib.hid (Na35_0_114.out.grown hg115 (by have := HX114_29.out; simp; omega))
          have Na54_0_115 := Lib.hid (Na54_0_114.out.grown hg115 (by have := HX114_30.out; simp; omega))
          have Na73_0_115 := Lib.hid (Na73_0_114.out.grown hg115 (by have := HX114_31.out; simp; omega))
          have RZ112_115 := Lib.hid (RZ112_114.out.grown hg115 (by have := HX114_32.out; simp; omega))
          have RZ114_115 : Hid (RAt W115 g114 [ox]) := Lib.hid hr115
          have HF_115 : Hid (Keeps (· = g) w W115) := Lib.hid (HF_114.out.newrow hg115 (show w.heap.size ≤ g114 from (by have := HG114.out; have := HLO92.out; omega)))
          have HL_115 : Hid (v91.heap.size ≤ W115.heap.size) := Lib.hid (Nat.le_trans HL_114.out hg115.size)
          clear hr115 hg115 hz115 HL_114 RG_114 RX_114 RY_114 Na27_0_114 Na35_0_114 Na54_0_114 Na73_0_114 RZ112_114 RZ114_114 HF_114
          refine storeW_F (i := 9) (oi := { dst := none, op := Op.store 23 (Operand.tmp 11) (Operand.tmp 75), type := 0, pos := "extended.go:33", after := #[{ on := 7, ground := Ground.data }, { on := 5, ground := Ground.data }, { on := 8, ground := Ground.chain }, { on := 0, ground := Ground.phase }, { on := 1, ground := Ground.phase }, { on := 2, ground := Ground.phase }, { on := 3, ground := Ground.phase }, { on := 4, ground := Ground.phase }, { on := 5, ground := Ground.phase }, { on := 6, ground := Ground.phase }, { on := 7, ground := Ground.phase }, { on := 8, ground := Ground.phase }], guard := none }) rfl (by kernel_rfl) (by rfl) (.tmp 11) (.tmp 75) rfl (g112) 0 0 rfl [0] oy rfl rfl RZ112_115.out (show 0 < 1 by omega) rfl ?_
          intro W116 hr116 hg116 hz116
          simp only [Act.put, List.setIfInBounds_toArray, List.set_cons_zero, List.set_cons_succ]
          have RG_116 := Lib.hid (RG_115.out.grown hg116 (by have := HX112_18.out; simp; omega))
          have RX_116 := Lib.hid (RX_115.out.grown hg116 (by have := HX112_19.out; simp; omega))
          have RY_116 := Lib.hid (RY_115.out.grown hg116 (by have := HX112_20.out; simp; omega))
          have Na27_0_116 := Lib.hid (Na27_0_115.out.grown hg116 (by have := HX112_21.out; simp; omega))
          have Na35_0_116 := Lib.hid (Na35_0_115.out.grown hg116 (by have := HX112_22.out; simp; omega))
          have Na54_0_116 := Lib.hid (Na54_0_115.out.grown hg116 (by have := HX112_23.out; simp; omega))
          have Na73_0_116 := Lib.hid (Na73_0_115.out.grown hg116 (by have := HX112_24.out; simp; omega))
          have RZ112_116 : Hid (RAt W116 g112 [oy]) := Lib.hid hr116
          have RZ114_116 := Lib.hid (RZ114_115.out.grown hg116 (by have := HX114_32.out; simp; omega))
          have HF_116 : Hid (Keeps (· = g) w W116) := Lib.hid (HF_115.out.newrow hg116 (show w.heap.size ≤ g112 from (by have := HG112.out; have := HLO92.out; omega)))
          have HL_116 : Hid (v91.heap.size ≤ W116.heap.size) := Lib.hid (Nat.le_trans HL_115.out hg116.size)
          clear hr116 hg116 hz116 HL_115 RG_115 RX_115 RY_115 Na27_0_115 Na35_0_115 Na54_0_115 Na73_0_115 RZ112_115 RZ114_115 HF_115
          refine doneW (by kernel_rfl) ⟨rfl, ?_⟩ _
          exact ⟨g114, g112, RG_116.out, RX_116.out, RY_116.out, Na27_0_116.out, Na35_0_116.out, Na54_0_116.out, Na73_0_116.out, RZ114_116.out, RZ112_116.out, HG114.out, HG112.out, (by have := HX114_32.out; omega), HF_116.out, rfl⟩
        · refine wpOp_value (i := 6) (oi := { dst := some 10, op := Op.alloc 23, type := 0, pos := "extended.go:33", after := #[], guard := none }) rfl (by rfl) (exec_alloc 23 rfl (.agg (zbs 32)) zero23 W112) ⟨fun _ => (below_alloc W112 _).mono HL_112.out, ?_⟩
          obtain ⟨W117, hW117, hb117, hz117⟩ := alloc_zero W112
          rw [← hW117]
          obtain ⟨g117, hg117⟩ : ∃ g, g = W112.heap.size := ⟨_, rfl⟩
          rw [← hg117] at hz117 ⊢
          have HG117 : Hid (v91.heap.size ≤ g117) := Lib.hid (by rw [hg117]; exact HL_112.out)
          have HX117_25 : Hid (g ≠ g117) := Lib.hid (by have := RG_112.out.lt; omega)
          have HX117_26 : Hid (gp ≠ g117) := Lib.hid (by have := RX_112.out.lt; omega)
          have HX117_27 : Hid (gq ≠ g117) := Lib.hid (by have := RY_112.out.lt; omega)
          have HX117_28 : Hid (a27_0 ≠ g117) := Lib.hid (by have := Na27_0_112.out.lt; omega)
          have HX117_29 : Hid (a35_0 ≠ g117) := Lib.hid (by have := Na35_0_112.out.lt; omega)
          have HX117_30 : Hid (a54_0 ≠ g117) := Lib.hid (by have := Na54_0_112.out.lt; omega)
          have HX117_31 : Hid (a73_0 ≠ g117) := Lib.hid (by have := Na73_0_112.out.lt; omega)
          have HX117_32 : Hid (g112 ≠ g117) := Lib.hid (by have := RZ112_112.out.lt; omega)
          have RG_117 := Lib.hid (RG_112.out.keep hb117)
          have RX_117 := Lib.hid (RX_112.out.keep hb117)
          have RY_117 := Lib.hid (RY_112.out.keep hb117)
          have Na27_0_117 := Lib.hid (Na27_0_112.out.keep hb117)
          have Na35_0_117 := Lib.hid (Na35_0_112.out.keep hb117)
          have Na54_0_117 := Lib.hid (Na54_0_112.out.keep hb117)
          have Na73_0_117 := Lib.hid (Na73_0_112.out.keep hb117)
          have RZ112_117 := Lib.hid (RZ112_112.out.keep hb117)
          have HF_117 : Hid (Keeps (· = g) w W117) := Lib.hid (HF_112.out.call hb117)
          have HL_117 : Hid (v91.heap.size ≤ W117.heap.size) := Lib.hid (Nat.le_trans HL_112.out hb117.size)
          have RZ117_117 : Hid (RAt W117 g117 [0]) := Lib.hid (zrow (k := 1) hz117)
          clear hb117 hz117 hg117 hW117 HL_112 RG_112 RX_112 RY_112 Na27_0_112 Na35_0_112 Na54_0_112 Na73_0_112 RZ112_112 HF_112
          simp only [Act.put, List.setIfInBounds_toArray, List.set_cons_zero, List.set_cons_succ]
          refine callW (i := 5) (oi := { dst := some 75, op := Op.call { callee := Callee.value (Operand.func 21), args := #[Operand.tmp 73, Operand.tmp 74], argTypes := #[23, 23] }, type := 23, pos := "extended.go:33", after := #[{ on := 3, ground := Ground.data }, { on := 4, ground := Ground.data }, { on := 2, ground := Ground.chain }], guard := none }) rfl (by kernel_rfl) (by rfl) (exec_callL 21 [.tmp 73, .tmp 74] #[23, 23] rfl [vN one, vN d] rfl (CG21 _)) ((C11.out W117).mono ?_)
          rintro e118 W118 ⟨rfl, hb118⟩
          refine ⟨_, rfl, fun _ => hb118.mono HL_117.out, ?_⟩
          have RG_118 := Lib.hid (RG_117.out.keep hb118)
          have RX_118 := Lib.hid (RX_117.out.keep hb118)
          have RY_118 := Lib.hid (RY_117.out.keep hb118)
          have Na27_0_118 := Lib.hid (Na27_0_117.out.keep hb118)
          have Na35_0_118 := Lib.hid (Na35_0_117.out.keep hb118)
          have Na54_0_118 := Lib.hid (Na54_0_117.out.keep hb118)
          have Na73_0_118 := Lib.hid (Na73_0_117.out.keep hb118)
          have RZ112_118 := Lib.hid (RZ112_117.out.keep hb118)
          have RZ117_118 := Lib.hid (RZ117_117.out.keep hb118)
          have HF_118 : Hid (Keeps (· = g) w W118) := Lib.hid (HF_117.out.call hb118)
          have HL_118 : Hid (v91.heap.size ≤ W118.heap.size) := Lib.hid (Nat.le_trans HL_117.out hb118.size)
          clear hb118 HL_117 RG_117 RX_117 RY_117 Na27_0_117 Na35_0_117 Na54_0_117 Na73_0_117 RZ112_117 RZ117_117 HF_117
          simp only [Act.put, List.setIfInBounds_toArray, List.set_cons_zero, List.set_cons_succ]
          refine storeW_F (i := 8) (oi := { dst := none, op := Op.store 23 (Operand.tmp 10) (Operand.tmp 72), type := 0, pos := "extended.go:33", after := #[{ on := 6, ground := Ground.data }, { on := 2, ground := Ground.data }, { on := 5, ground := Ground.chain }, { on := 0, ground := Ground.phase }, { on := 1, ground := Ground.phase }, { on := 2, ground := Ground.phase }, { on := 3, ground := Ground.textOnly Departure.lateStores }, { on := 4, ground := Ground.textOnly Departure.lateStores }, { on := 5, ground := Ground.phase }, { on := 6, ground := Ground.phase }, { on := 7, ground := Ground.phase }], guard := none }) rfl (by kernel_rfl) (by rfl) (.tmp 10) (.tmp 72) rfl (g117) 0 0 rfl [0] ox rfl rfl RZ117_118.out (show 0 < 1 by omega) rfl ?_
          intro W119 hr119 hg119 hz119
          simp only [Act.put, List.setIfInBounds_toArray, List.set_cons_zero, List.set_cons_succ]
          have RG_119 := Lib.hid (RG_118.out.grown hg119 (by have := HX117_25.out; simp; omega))
          have RX_119 := Lib.hid (RX_118.out.grown hg119 (by have := HX117_26.out; simp; omega))
          have RY_119 := Lib.hid (RY_118.out.grown hg119 (by have := HX117_27.out; simp; omega))
          have Na27_0_119 := Lib.hid (Na27_0_118.out.grown hg119 (by have := HX117_28.out; simp; omega))
          have Na35_0_119 := Lib.hid (Na35_0_118.out.grown hg119 (by have := HX117_29.out; simp; omega))
          have Na54_0_119 := Lib.hid (Na54_0_118.out.grown hg119 (by have := HX117_30.out; simp; omega))
          have Na73_0_119 := Lib.hid (Na73_0_118.out.grown hg119 (by have := HX117_31.out; simp; omega))
          have RZ112_119 := Lib.hid (RZ112_118.out.grown hg119 (by have := HX117_32.out; simp; omega))
          have RZ117_119 : Hid (RAt W119 g117 [ox]) := Lib.hid hr119
          have HF_119 : Hid (Keeps (· = g) w W119) := Lib.hid (HF_118.out.newrow hg119 (show w.heap.size ≤ g117 from (by have := HG117.out; have := HLO92.out; omega)))
          have HL_119 : Hid (v91.heap.size ≤ W119.heap.size) := Lib.hid (Nat.le_trans HL_118.out hg119.size)
          clear hr119 hg119 hz119 HL_118 RG_118 RX_118 RY_118 Na27_0_118 Na35_0_118 Na54_0_118 Na73_0_118 RZ112_118 RZ117_118 HF_118
          refine storeW_F (i := 9) (oi := { dst := none, op := Op.store 23 (Operand.tmp 11) (Operand.tmp 75), type := 0, pos := "extended.go:33", after := #[{ on := 7, ground := Ground.data }, { on := 5, ground := Ground.data }, { on := 8, ground := Ground.chain }, { on := 0, ground := Ground.phase }, { on := 1, ground := Ground.phase }, { on := 2, ground := Ground.phase }, { on := 3, ground := Ground.phase }, { on := 4, ground := Ground.phase }, { on := 5, ground := Ground.phase }, { on := 6, ground := Ground.phase }, { on := 7, ground := Ground.phase }, { on := 8, ground := Ground.phase }], guard := none }) rfl (by kernel_rfl) (by rfl) (.tmp 11) (.tmp 75) rfl (g112) 0 0 rfl [0] oy rfl rfl RZ112_119.out (show 0 < 1 by omega) rfl ?_
          intro W120 hr120 hg120 hz120
          simp only [Act.put, List.setIfInBounds_toArray, List.set_cons_zero, List.set_cons_succ]
          have RG_120 := Lib.hid (RG_119.out.grown hg120 (by have := HX112_18.out; simp; omega))
          have RX_120 := Lib.hid (RX_119.out.grown hg120 (by have := HX112_19.out; simp; omega))
          have RY_120 := Lib.hid (RY_119.out.grown hg120 (by have := HX112_20.out; simp; omega))
          have Na27_0_120 := Lib.hid (Na27_0_119.out.grown hg120 (by have := HX112_21.out; simp; omega))
          have Na35_0_120 := Lib.hid (Na35_0_119.out.grown hg120 (by have := HX112_22.out; simp; omega))
          have Na54_0_120 := Lib.hid (Na54_0_119.out.grown hg120 (by have := HX112_23.out; simp; omega))
          have Na73_0_120 := Lib.hid (Na73_0_119.out.grown hg120 (by have := HX112_24.out; simp; omega))
          have RZ112_120 : Hid (RAt W120 g112 [oy]) := Lib.hid hr120
          have RZ117_120 := Lib.hid (RZ117_119.out.grown hg120 (by have := HX117_32.out; simp; omega))
          have HF_120 : Hid (Keeps (· = g) w W120) := Lib.hid (HF_119.out.newrow hg120 (show w.heap.size ≤ g112 from (by have := HG112.out; have := HLO92.out; omega)))
          have HL_120 : Hid (v91.heap.size ≤ W120.heap.size) := Lib.hid (Nat.le_trans HL_119.out hg120.size)
          clear hr120 hg120 hz120 HL_119 RG_119 RX_119 RY_119 Na27_0_119 Na35_0_119 Na54_0_119 Na73_0_119 RZ112_119 RZ117_119 HF_119
          refine doneW (by kernel_rfl) ⟨rfl, ?_⟩ _
          exact ⟨g117, g112, RG_120.out, RX_120.out, RY_120.out, Na27_0_120.out, Na35_0_120.out, Na54_0_120.out, Na73_0_120.out, RZ117_120.out, RZ112_120.out, HG117.out, HG112.out, (by have := HX117_32.out; omega), HF_120.out, rfl⟩
    · refine wpOp_value (i := 6) (oi := { dst := some 10, op := Op.alloc 23, type := 0, pos := "extended.go:33", after := #[], guard := none }) rfl (by rfl) (exec_alloc 23 rfl (.agg (zbs 32)) zero23 D92) ⟨fun _ => (below_alloc D92 _).mono HL_92.out, ?_⟩
      obtain ⟨W121, hW121, hb121, hz121⟩ := alloc_zero D92
      rw [← hW121]
      obtain ⟨g121, hg121⟩ : ∃ g, g = D92.heap.size := ⟨_, rfl⟩
      rw [← hg121] at hz121 ⊢
      have HG121 : Hid (v91.heap.size ≤ g121) := Lib.hid (by rw [hg121]; exact HL_92.out)
      have HX121_18 : Hid (g ≠ g121) := Lib.hid (by have := RG_92.out.lt; omega)
      have HX121_19 : Hid (gp ≠ g121) := Lib.hid (by have := RX_92.out.lt; omega)
      have HX121_20 : Hid (gq ≠ g121) := Lib.hid (by have := RY_92.out.lt; omega)
      have HX121_21 : Hid (a27_0 ≠ g121) := Lib.hid (by have := Na27_0_92.out.lt; omega)
      have HX121_22 : Hid (a35_0 ≠ g121) := Lib.hid (by have := Na35_0_92.out.lt; omega)
      have HX121_23 : Hid (a54_0 ≠ g121) := Lib.hid (by have := Na54_0_92.out.lt; omega)
      have HX121_24 : Hid (a73_0 ≠ g121) := Lib.hid (by have := Na73_0_92.out.lt; omega)
      have RG_121 := Lib.hid (RG_92.out.keep hb121)
      have RX_121 := Lib.hid (RX_92.out.keep hb121)
      have RY_121 := Lib.hid (RY_92.out.keep hb121)
      have Na27_0_121 := Lib.hid (Na27_0_92.out.keep hb121)
      have Na35_0_121 := Lib.hid (Na35_0_92.out.keep hb121)
      have Na54_0_121 := Lib.hid (Na54_0_92.out.keep hb121)
      have Na73_0_121 := Lib.hid (Na73_0_92.out.keep hb121)
      have HF_121 : Hid (Keeps (· = g) w W121) := Lib.hid (HF_92.out.call hb121)
      have HL_121 : Hid (v91.heap.size ≤ W121.heap.size) := Lib.hid (Nat.le_trans HL_92.out hb121.size)
      have RZ121_121 : Hid (RAt W121 g121 [0]) := Lib.hid (zrow (k := 1) hz121)
      clear hb121 hz121 hg121 hW121 HL_92 RG_92 RX_92 RY_92 Na27_0_92 Na35_0_92 Na54_0_92 Na73_0_92 HF_92
      simp only [Act.put, List.setIfInBounds_toArray, List.set_cons_zero, List.set_cons_succ]
      refine eachW [2, 7] (by kernel_rfl) (by simp) ?_
      intro k hk
      simp only [List.mem_cons, List.not_mem_nil, or_false] at hk
      rcases hk with rfl | rfl
      · refine wpOp_call (i := 2) (oi := { dst := some 72, op := Op.call { callee := Callee.value (Operand.func 19), args := #[Operand.tmp 70, Operand.tmp 71], argTypes := #[23, 23] }, type := 23, pos := "extended.go:33", after := #[{ on := 0, ground := Ground.data }, { on := 1, ground := Ground.data }], guard := none }) rfl (by rfl) (exec_callL 19 [.tmp 70, .tmp 71] #[23, 23] rfl [vN one, vN d] rfl (CG19 _)) ((C10.out W121).mono ?_)
        rintro e122 W122 ⟨rfl, hb122⟩
        refine ⟨_, rfl, fun _ => hb122.mono HL_121.out, ?_⟩
        have RG_122 := Lib.hid (RG_121.out.keep hb122)
        have RX_122 := Lib.hid (RX_121.out.keep hb122)
        have RY_122 := Lib.hid (RY_121.out.keep hb122)
        have Na27_0_122 := Lib.hid (Na27_0_121.out.keep hb122)
        have Na35_0_122 := Lib.hid (Na35_0_121.out.keep hb122)
        have Na54_0_122 := Lib.hid (Na54_0_121.out.keep hb122)
        have Na73_0_122 := Lib.hid (Na73_0_121.out.keep hb122)
        have RZ121_122 := Lib.hid (RZ121_121.out.keep hb122)
        have HF_122 : Hid (Keeps (· = g) w W122) := Lib.hid (HF_121.out.call hb122)
        have HL_122 : Hid (v91.heap.size ≤ W122.heap.size) := Lib.hid (Nat.le_trans HL_121.out hb122.size)
        clear hb122 HL_121 RG_121 RX_121 RY_121 Na27_0_121 Na35_0_121 Na54_0_121 Na73_0_121 RZ121_121 HF_121
        simp only [Act.put, List.setIfInBounds_toArray, List.set_cons_zero, List.set_cons_succ]
        refine eachW [5, 7] (by kernel_rfl) (by simp) ?_
        intro k hk
        simp only [List.mem_cons, List.not_mem_nil, or_false] at hk
        rcases hk with rfl | rfl
        · refine wpOp_call (i := 5) (oi := { dst := some 75, op := Op.call { callee := Callee.value (Operand.func 21), args := #[Operand.tmp 73, Operand.tmp 74], argTypes := #[23, 23] }, type := 23, pos := "extended.go:33", after := #[{ on := 3, ground := Ground.data }, { on := 4, ground := Ground.data }, { on := 2, ground := Ground.chain }], guard := none }) rfl (by rfl) (exec_callL 21 [.tmp 73, .tmp 74] #[23, 23] rfl [vN one, vN d] rfl (CG21 _)) ((C11.out W122).mono ?_)
          rintro e123 W123 ⟨rfl, hb123⟩
          refine ⟨_, rfl, fun _ => hb123.mono HL_122.out, ?_⟩
          have RG_123 := Lib.hid (RG_122.out.keep hb123)
          have RX_123 := Lib.hid (RX_122.out.keep hb123)
          have RY_123 := Lib.hid (RY_122.out.keep hb123)
          have Na27_0_123 := Lib.hid (Na27_0_122.out.keep hb123)
          have Na35_0_123 := Lib.hid (Na35_0_122.out.keep hb123)
          have Na54_0_123 := Lib.hid (Na54_0_122.out.keep hb123)
          have Na73_0_123 := Lib.hid (Na73_0_122.out.keep hb123)
          have RZ121_123 := Lib.hid (RZ121_122.out.keep hb123)
          have HF_123 : Hid (Keeps (· = g) w W123) := Lib.hid (HF_122.out.call hb123)
          have HL_123 : Hid (v91.heap.size ≤ W123.heap.size) := Lib.hid (Nat.le_trans HL_122.out hb123.size)
          clear hb123 HL_122 RG_122 RX_122 RY_122 Na27_0_122 Na35_0_122 Na54_0_122 Na73_0_122 RZ121_122 HF_122
          simp only [Act.put, List.setIfInBounds_toArray, List.set_cons_zero, List.set_cons_succ]
          refine opW _ _ (i := 7) (oi := { dst := some 11, op := Op.alloc 23, type := 0, pos := "extended.go:33", after := #[], guard := none }) rfl (by kernel_rfl) (by rfl) (exec_alloc 23 rfl (.agg (zbs 32)) zero23 W123) (fun _ => (below_alloc W123 _).mono HL_123.out) ?_
          obtain ⟨W124, hW124, hb124, hz124⟩ := alloc_zero W123
          rw [← hW124]
          obtain ⟨g124, hg124⟩ : ∃ g, g = W123.heap.size := ⟨_, rfl⟩
          rw [← hg124] at hz124 ⊢
          have HG124 : Hid (v91.heap.size ≤ g124) := Lib.hid (by rw [hg124]; exact HL_123.out)
          have HX124_25 : Hid (g ≠ g124) := Lib.hid (by have := RG_123.out.lt; omega)
          have HX124_26 : Hid (gp ≠ g124) := Lib.hid (by have := RX_123.out.lt; omega)
          have HX124_27 : Hid (gq ≠ g124) := Lib.hid (by have := RY_123.out.lt; omega)
          have HX124_28 : Hid (a27_0 ≠ g124) := Lib.hid (by have := Na27_0_123.out.lt; omega)
          have HX124_29 : Hid (a35_0 ≠ g124) := Lib.hid (by have := Na35_0_123.out.lt; omega)
          have HX124_30 : Hid (a54_0 ≠ g124) := Lib.hid (by have := Na54_0_123.out.lt; omega)
          have HX124_31 : Hid (a73_0 ≠ g124) := Lib.hid (by have := Na73_0_123.out.lt; omega)
          have HX124_32 : Hid (g121 ≠ g124) := Lib.hid (by have := RZ121_123.out.lt; omega)
          have RG_124 := Lib.hid (RG_123.out.keep hb124)
          have RX_124 := Lib.hid (RX_123.out.keep hb124)
          have RY_124 := Lib.hid (RY_123.out.keep hb124)
          have Na27_0_124 := Lib.hid (Na27_0_123.out.keep hb124)
          have Na35_0_124 := Lib.hid (Na35_0_123.out.keep hb124)
          have Na54_0_124 := Lib.hid (Na54_0_123.out.keep hb124)
          have Na73_0_124 := Lib.hid (Na73_0_123.out.keep hb124)
          have RZ121_124 := Lib.hid (RZ121_123.out.keep hb124)
          have HF_124 : Hid (Keeps (· = g) w W124) := Lib.hid (HF_123.out.call hb124)
          have HL_124 : Hid (v91.heap.size ≤ W124.heap.size) := Lib.hid (Nat.le_trans HL_123.out hb124.size)
          have RZ124_124 : Hid (RAt W124 g124 [0]) := Lib.hid (zrow (k := 1) hz124)
          clear hb124 hz124 hg124 hW124 HL_123 RG_123 RX_123 RY_123 Na27_0_123 Na35_0_123 Na54_0_123 Na73_0_123 RZ121_123 HF_123
          simp only [Act.put, List.setIfInBounds_toArray, List.set_cons_zero, List.set_cons_succ]
          refine storeW_F (i := 8) (oi := { dst := none, op := Op.store 23 (Operand.tmp 10) (Operand.tmp 72), type := 0, pos := "extended.go:33", after := #[{ on := 6, ground := Ground.data }, { on := 2, ground := Ground.data }, { on := 5, ground := Ground.chain }, { on := 0, ground := Ground.phase }, { on := 1, ground := Ground.phase }, { on := 2, ground := Ground.phase }, { on := 3, ground := Ground.textOnly Departure.lateStores }, { on := 4, ground := Ground.textOnly Departure.lateStores }, { on := 5, ground := Ground.phase }, { on := 6, ground := Ground.phase }, { on := 7, ground := Ground.phase }], guard := none }) rfl (by kernel_rfl) (by rfl) (.tmp 10) (.tmp 72) rfl (g121) 0 0 rfl [0] ox rfl rfl RZ121_124.out (show 0 < 1 by omega) rfl ?_
          intro W125 hr125 hg125 hz125
          simp only [Act.put, List.setIfInBounds_toArray, List.set_cons_zero, List.set_cons_succ]
          have RG_125 := Lib.hid (RG_124.out.grown hg125 (by have := HX121_18.out; simp; omega))
          have RX_125 := Lib.hid (RX_124.out.grown hg125 (by have := HX121_19.out; simp; omega))
          have RY_125 := Lib.hid (RY_124.out.grown hg125 (by have := HX121_20.out; simp; omega))
          have Na27_0_125 := Lib.hid (Na27_0_124.out.grown hg125 (by have := HX121_21.out; simp; omega))
          have Na35_0_125 := Lib.hid (Na35_0_124.out.grown hg125 (by have := HX121_22.out; simp; omega))
          have Na54_0_125 := Lib.hid (Na54_0_124.out.grown hg125 (by have := HX121_23.out; simp; omega))
          have Na73_0_125 := Lib.hid (Na73_0_124.out.grown hg125 (by have := HX121_24.out; simp; omega))
          have RZ121_125 : Hid (RAt W125 g121 [ox]) := Lib.hid hr125
          have RZ124_125 := Lib.hid (RZ124_124.out.grown hg125 (by have := HX124_32.out; simp; omega))
          have HF_125 : Hid (Keeps (· = g) w W125) := Lib.hid (HF_124.out.newrow hg125 (show w.heap.size ≤ g121 from (by have := HG121.out; have := HLO92.out; omega)))
          have HL_125 : Hid (v91.heap.size ≤ W125.heap.size) := Lib.hid (Nat.le_trans HL_124.out hg125.size)
          clear hr125 hg125 hz125 HL_124 RG_124 RX_124 RY_124 Na27_0_124 Na35_0_124 Na54_0_124 Na73_0_124 RZ121_124 RZ124_124 HF_124
          refine storeW_F (i := 9) (oi := { dst := none, op := Op.store 23 (Operand.tmp 11) (Operand.tmp 75), type := 0, pos := "extended.go:33", after := #[{ on := 7, ground := Ground.data }, { on := 5, ground := Ground.data }, { on := 8, ground := Ground.chain }, { on := 0, ground := Ground.phase }, { on := 1, ground := Ground.phase }, { on := 2, ground := Ground.phase }, { on := 3, ground := Ground.phase }, { on := 4, ground := Ground.phase }, { on := 5, ground := Ground.phase }, { on := 6, ground := Ground.phase }, { on := 7, ground := Ground.phase }, { on := 8, ground := Ground.phase }], guard := none }) rfl (by kernel_rfl) (by rfl) (.tmp 11) (.tmp 75) rfl (g124) 0 0 rfl [0] oy rfl rfl RZ124_125.out (show 0 < 1 by omega) rfl ?_
          intro W126 hr126 hg126 hz126
          simp only [Act.put, List.setIfInBounds_toArray, List.set_cons_zero, List.set_cons_succ]
          have RG_126 := Lib.hid (RG_125.out.grown hg126 (by have := HX124_25.out; simp; omega))
          have RX_126 := Lib.hid (RX_125.out.grown hg126 (by have := HX124_26.out; simp; omega))
          have RY_126 := Lib.hid (RY_125.out.grown hg126 (by have := HX124_27.out; simp; omega))
          have Na27_0_126 := Lib.hid (Na27_0_125.out.grown hg126 (by have := HX124_28.out; simp; omega))
          have Na35_0_126 := Lib.hid (Na35_0_125.out.grown hg126 (by have := HX124_29.out; simp; omega))
          have Na54_0_126 := Lib.hid (Na54_0_125.out.grown hg126 (by have := HX124_30.out; simp; omega))
          have Na73_0_126 := Lib.hid (Na73_0_125.out.grown hg126 (by have := HX124_31.out; simp; omega))
          have RZ121_126 := Lib.hid (RZ121_125.out.grown hg126 (by have := HX124_32.out; simp; omega))
          have RZ124_126 : Hid (RAt W126 g124 [oy]) := Lib.hid hr126
          have HF_126 : Hid (Keeps (· = g) w W126) := Lib.hid (HF_125.out.newrow hg126 (show w.heap.size ≤ g124 from (by have := HG124.out; have := HLO92.out; omega)))
          have HL_126 : Hid (v91.heap.size ≤ W126.heap.size) := Lib.hid (Nat.le_trans HL_125.out hg126.size)
          clear hr126 hg126 hz126 HL_125 RG_125 RX_125 RY_125 Na27_0_125 Na35_0_125 Na54_0_125 Na73_0_125 RZ121_125 RZ124_125 HF_125
          refine doneW (by kernel_rfl) ⟨rfl, ?_⟩ _
          exact ⟨g121, g124, RG_126.out, RX_126.out, RY_126.out, Na27_0_126.out, Na35_0_126.out, Na54_0_126.out, Na73_0_126.out, RZ121_126.out, RZ124_126.out, HG121.out, HG124.out, (by have := HX124_32.out; omega), HF_126.out, rfl⟩
        · refine wpOp_value (i := 7) (oi := { dst := some 11, op := Op.alloc 23, type := 0, pos := "extended.go:33", after := #[], guard := none }) rfl (by rfl) (exec_alloc 23 rfl (.agg (zbs 32)) zero23 W122) ⟨fun _ => (below_alloc W122 _).mono HL_122.out, ?_⟩
          obtain ⟨W127, hW127, hb127, hz127⟩ := alloc_zero W122
          rw [← hW127]
          obtain ⟨g127, hg127⟩ : ∃ g, g = W122.heap.size := ⟨_, rfl⟩
          rw [← hg127] at hz127 ⊢
          have HG127 : Hid (v91.heap.size ≤ g127) := Lib.hid (by rw [hg127]; exact HL_122.out)
          have HX127_25 : Hid (g ≠ g127) := Lib.hid (by have := RG_122.out.lt; omega)
          have HX127_26 : Hid (gp ≠ g127) := Lib.hid (by have := RX_122.out.lt; omega)
          have HX127_27 : Hid (gq ≠ g127) := Lib.hid (by have := RY_122.out.lt; omega)
          have HX127_28 : Hid (a27_0 ≠ g127) := Lib.hid (by have := Na27_0_122.out.lt; omega)
          have HX127_29 : Hid (a35_0 ≠ g127) := Lib.hid (by have := Na35_0_122.out.lt; omega)
          have HX127_30 : Hid (a54_0 ≠ g127) := Lib.hid (by have := Na54_0_122.out.lt; omega)
          have HX127_31 : Hid (a73_0 ≠ g127) := Lib.hid (by have := Na73_0_122.out.lt; omega)
          have HX127_32 : Hid (g121 ≠ g127) := Lib.hid (by have := RZ121_122.out.lt; omega)
          have RG_127 := Lib.hid (RG_122.out.keep hb127)
          have RX_127 := Lib.hid (RX_122.out.keep hb127)
          have RY_127 := Lib.hid (RY_122.out.keep hb127)
          have Na27_0_127 := Lib.hid (Na27_0_122.out.keep hb127)
          have Na35_0_127 := Lib.hid (Na35_0_122.out.keep hb127)
          have Na54_0_127 := Lib.hid (Na54_0_122.out.keep hb127)
          have Na73_0_127 := Lib.hid (Na73_0_122.out.keep hb127)
          have RZ121_127 := Lib.hid (RZ121_122.out.keep hb127)
          have HF_127 : Hid (Keeps (· = g) w W127) := Lib.hid (HF_122.out.call hb127)
          have HL_127 : Hid (v91.heap.size ≤ W127.heap.size) := Lib.hid (Nat.le_trans HL_122.out hb127.size)
          have RZ127_127 : Hid (RAt W127 g127 [0]) := Lib.hid (zrow (k := 1) hz127)
          clear hb127 hz127 hg127 hW127 HL_122 RG_122 RX_122 RY_122 Na27_0_122 Na35_0_122 Na54_0_122 Na73_0_122 RZ121_122 HF_122
          simp only [Act.put, List.setIfInBounds_toArray, List.set_cons_zero, List.set_cons_succ]
          refine callW (i := 5) (oi := { dst := some 75, op := Op.call { callee := Callee.value (Operand.func 21), args := #[Operand.tmp 73, Operand.tmp 74], argTypes := #[23, 23] }, type := 23, pos := "extended.go:33", after := #[{ on := 3, ground := Ground.data }, { on := 4, ground := Ground.data }, { on := 2, ground := Ground.chain }], guard := none }) rfl (by kernel_rfl) (by rfl) (exec_callL 21 [.tmp 73, .tmp 74] #[23, 23] rfl [vN one, vN d] rfl (CG21 _)) ((C11.out W127).mono ?_)
          rintro e128 W128 ⟨rfl, hb128⟩
          refine ⟨_, rfl, fun _ => hb128.mono HL_127.out, ?_⟩
          have RG_128 := Lib.hid (RG_127.out.keep hb128)
          have RX_128 := Lib.hid (RX_127.out.keep hb128)
          have RY_128 := Lib.hid (RY_127.out.keep hb128)
          have Na27_0_128 := Lib.hid (Na27_0_127.out.keep hb128)
          have Na35_0_128 := Lib.hid (Na35_0_127.out.keep hb128)
          have Na54_0_128 := Lib.hid (Na54_0_127.out.keep hb128)
          have Na73_0_128 := Lib.hid (Na73_0_127.out.keep hb128)
          have RZ121_128 := Lib.hid (RZ121_127.out.keep hb128)
          have RZ127_128 := Lib.hid (RZ127_127.out.keep hb128)
          have HF_128 : Hid (Keeps (· = g) w W128) := Lib.hid (HF_127.out.call hb128)
          have HL_128 : Hid (v91.heap.size ≤ W128.heap.size) := Lib.hid (Nat.le_trans HL_127.out hb128.size)
          clear hb128 HL_127 RG_127 RX_127 RY_127 Na27_0_127 Na35_0_127 Na54_0_127 Na73_0_127 RZ121_127 RZ127_127 HF_127
          simp only [Act.put, List.setIfInBounds_toArray, List.set_cons_zero, List.set_cons_succ]
          refine storeW_F (i := 8) (oi := { dst := none, op := Op.store 23 (Operand.tmp 10) (Operand.tmp 72), type := 0, pos := "extended.go:33", after := #[{ on := 6, ground := Ground.data }, { on := 2, ground := Ground.data }, { on := 5, ground := Ground.chain }, { on := 0, ground := Ground.phase }, { on := 1, ground := Ground.phase }, { on := 2, ground := Ground.phase }, { on := 3, ground := Ground.textOnly Departure.lateStores }, { on := 4, ground := Ground.textOnly Departure.lateStores }, { on := 5, ground := Ground.phase }, { on := 6, ground := Ground.phase }, { on := 7, ground := Ground.phase }], guard := none }) rfl (by kernel_rfl) (by rfl) (.tmp 10) (.tmp 72) rfl (g121) 0 0 rfl [0] ox rfl rfl RZ121_128.out (show 0 < 1 by omega) rfl ?_
          intro W129 hr129 hg129 hz129
          simp only [Act.put, List.setIfInBounds_toArray, List.set_cons_zero, List.set_cons_succ]
          have RG_129 := Lib.hid (RG_128.out.grown hg129 (by have := HX121_18.out; simp; omega))
          have RX_129 := Lib.hid (RX_128.out.grown hg129 (by have := HX121_19.out; simp; omega))
          have RY_129 := Lib.hid (RY_128.out.grown hg129 (by have := HX121_20.out; simp; omega))
          have Na27_0_129 := Lib.hid (Na27_0_128.out.grown hg129 (by have := HX121_21.out; simp; omega))
          have Na35_0_129 := Lib.hid (Na35_0_128.out.grown hg129 (by have := HX121_22.out; simp; omega))
          have Na54_0_129 := Lib.hid (Na54_0_128.out.grown hg129 (by have := HX121_23.out; simp; omega))
          have Na73_0_129 := Lib.hid (Na73_0_128.out.grown hg129 (by have := HX121_24.out; simp; omega))
          have RZ121_129 : Hid (RAt W129 g121 [ox]) := Lib.hid hr129
          have RZ127_129 := Lib.hid (RZ127_128.out.grown hg129 (by have := HX127_32.out; simp; omega))
          have HF_129 : Hid (Keeps (· = g) w W129) := Lib.hid (HF_128.out.newrow hg129 (show w.heap.size ≤ g121 from (by have := HG121.out; have := HLO92.out; omega)))
          have HL_129 : Hid (v91.heap.size ≤ W129.heap.size) := Lib.hid (Nat.le_trans HL_128.out hg129.size)
          clear hr129 hg129 hz129 HL_128 RG_128 RX_128 RY_128 Na27_0_128 Na35_0_128 Na54_0_128 Na73_0_128 RZ121_128 RZ127_128 HF_128
          refine storeW_F (i := 9) (oi := { dst := none, op := Op.store 23 (Operand.tmp 11) (Operand.tmp 75), type := 0, pos := "extended.go:33", after := #[{ on := 7, ground := Ground.data }, { on := 5, ground := Ground.data }, { on := 8, ground := Ground.chain }, { on := 0, ground := Ground.phase }, { on := 1, ground := Ground.phase }, { on := 2, ground := Ground.phase }, { on := 3, ground := Ground.phase }, { on := 4, ground := Ground.phase }, { on := 5, ground := Ground.phase }, { on := 6, ground := Ground.phase }, { on := 7, ground := Ground.phase }, { on := 8, ground := Ground.phase }], guard := none }) rfl (by kernel_rfl) (by rfl) (.tmp 11) (.tmp 75) rfl (g127) 0 0 rfl [0] oy rfl rfl RZ127_129.out (show 0 < 1 by omega) rfl ?_
          intro W130 hr130 hg130 hz130
          simp only [Act.put, List.setIfInBounds_toArray, List.set_cons_zero, List.set_cons_succ]
          have RG_130 := Lib.hid (RG_129.out.grown hg130 (by have := HX127_25.out; simp; omega))
          have RX_130 := Lib.hid (RX_129.out.grown hg130 (by have := HX127_26.out; simp; omega))
          have RY_130 := Lib.hid (RY_129.out.grown hg130 (by have := HX127_27.out; simp; omega))
          have Na27_0_130 := Lib.hid (Na27_0_129.out.grown hg130 (by have := HX127_28.out; simp; omega))
          have Na35_0_130 := Lib.hid (Na35_0_129.out.grown hg130 (by have := HX127_29.out; simp; omega))
          have Na54_0_130 := Lib.hid (Na54_0_129.out.grown hg130 (by have := HX127_30.out; simp; omega))
          have Na73_0_130 := Lib.hid (Na73_0_129.out.grown hg130 (by have := HX127_31.out; simp; omega))
          have RZ121_130 := Lib.hid (RZ121_129.out.grown hg130 (by have := HX127_32.out; simp; omega))
          have RZ127_130 : Hid (RAt W130 g127 [oy]) := Lib.hid hr130
          have HF_130 : Hid (Keeps (· = g) w W130) := Lib.hid (HF_129.out.newrow hg130 (show w.heap.size ≤ g127 from (by have := HG127.out; have := HLO92.out; omega)))
          have HL_130 : Hid (v91.heap.size ≤ W130.heap.size) := Lib.hid (Nat.le_trans HL_129.out hg130.size)
          clear hr130 hg130 hz130 HL_129 RG_129 RX_129 RY_129 Na27_0_129 Na35_0_129 Na54_0_129 Na73_0_129 RZ121_129 RZ127_129 HF_129
          refine doneW (by kernel_rfl) ⟨rfl, ?_⟩ _
          exact ⟨g121, g127, RG_130.out, RX_130.out, RY_130.out, Na27_0_130.out, Na35_0_130.out, Na54_0_130.out, Na73_0_130.out, RZ121_130.out, RZ127_130.out, HG121.out, HG127.out, (by have := HX127_32.out; omega), HF_130.out, rfl⟩
      · refine wpOp_value (i := 7) (oi := { dst := some 11, op := Op.alloc 23, type := 0, pos := "extended.go:33", after := #[], guard := none }) rfl (by rfl) (exec_alloc 23 rfl (.agg (zbs 32)) zero23 W121) ⟨fun _ => (below_alloc W121 _).mono HL_121.out, ?_⟩
        obtain ⟨W131, hW131, hb131, hz131⟩ := alloc_zero W121
        rw [← hW131]
        obtain ⟨g131, hg131⟩ : ∃ g, g = W121.heap.size := ⟨_, rfl⟩
        rw [← hg131] at hz131 ⊢
        have HG131 : Hid (v91.heap.size ≤ g131) := Lib.hid (by rw [hg131]; exact HL_121.out)
        have HX131_25 : Hid (g ≠ g131) := Lib.hid (by have := RG_121.out.lt; omega)
        have HX131_26 : Hid (gp ≠ g131) := Lib.hid (by have := RX_121.out.lt; omega)
        have HX131_27 : Hid (gq ≠ g131) := Lib.hid (by have := RY_121.out.lt; omega)
        have HX131_28 : Hid (a27_0 ≠ g131) := Lib.hid (by have := Na27_0_121.out.lt; omega)
        have HX131_29 : Hid (a35_0 ≠ g131) := Lib.hid (by have := Na35_0_121.out.lt; omega)
        have HX131_30 : Hid (a54_0 ≠ g131) := Lib.hid (by have := Na54_0_121.out.lt; omega)
        have HX131_31 : Hid (a73_0 ≠ g131) := Lib.hid (by have := Na73_0_121.out.lt; omega)
        have HX131_32 : Hid (g121 ≠ g131) := Lib.hid (by have := RZ121_121.out.lt; omega)
        have RG_131 := Lib.hid (RG_121.out.keep hb131)
        have RX_131 := Lib.hid (RX_121.out.keep hb131)
        have RY_131 := Lib.hid (RY_121.out.keep hb131)
        have Na27_0_131 := Lib.hid (Na27_0_121.out.keep hb131)
        have Na35_0_131 := Lib.hid (Na35_0_121.out.keep hb131)
        have Na54_0_131 := Lib.hid (Na54_0_121.out.keep hb131)
        have Na73_0_131 := Lib.hid (Na73_0_121.out.keep hb131)
        have RZ121_131 := Lib.hid (RZ121_121.out.keep hb131)
        have HF_131 : Hid (Keeps (· = g) w W131) := Lib.hid (HF_121.out.call hb131)
        have HL_131 : Hid (v91.heap.size ≤ W131.heap.size) := Lib.hid (Nat.le_trans HL_121.out hb131.size)
        have RZ131_131 : Hid (RAt W131 g131 [0]) := Lib.hid (zrow (k := 1) hz131)
        clear hb131 hz131 hg131 hW131 HL_121 RG_121 RX_121 RY_121 Na27_0_121 Na35_0_121 Na54_0_121 Na73_0_121 RZ121_121 HF_121
        simp only [Act.put, List.setIfInBounds_toArray, List.set_cons_zero, List.set_cons_succ]
        refine callW (i := 2) (oi := { dst := some 72, op := Op.call { callee := Callee.value (Operand.func 19), args := #[Operand.tmp 70, Operand.tmp 71], argTypes := #[23, 23] }, type := 23, pos := "extended.go:33", after := #[{ on := 0, ground := Ground.data }, { on := 1, ground := Ground.data }], guard := none }) rfl (by kernel_rfl) (by rfl) (exec_callL 19 [.tmp 70, .tmp 71] #[23, 23] rfl [vN one, vN d] rfl (CG19 _)) ((C10.out W131).mono ?_)
        rintro e132 W132 ⟨rfl, hb132⟩
        refine ⟨_, rfl, fun _ => hb132.mono HL_131.out, ?_⟩
        have RG_132 := Lib.hid (RG_131.out.keep hb132)
        have RX_132 := Lib.hid (RX_131.out.keep hb132)
        have RY_132 := Lib.hid (RY_131.out.keep hb132)
        have Na27_0_132 := Lib.hid (Na27_0_131.out.keep hb132)
        have Na35_0_132 := Lib.hid (Na35_0_131.out.keep hb132)
        have Na54_0_132 := Lib.hid (Na54_0_131.out.keep hb132)
        have Na73_0_132 := Lib.hid (Na73_0_131.out.keep hb132)
        have RZ121_132 := Lib.hid (RZ121_131.out.keep hb132)
        have RZ131_132 := Lib.hid (RZ131_131.out.keep hb132)
        have HF_132 : Hid (Keeps (· = g) w W132) := Lib.hid (HF_131.out.call hb132)
        have HL_132 : Hid (v91.heap.size ≤ W132.heap.size) := Lib.hid (Nat.le_trans HL_131.out hb132.size)
        clear hb132 HL_131 RG_131 RX_131 RY_131 Na27_0_131 Na35_0_131 Na54_0_131 Na73_0_131 RZ121_131 RZ131_131 HF_131
        simp only [Act.put, List.setIfInBounds_toArray, List.set_cons_zero, List.set_cons_succ]
        refine callW (i := 5) (oi := { dst := some 75, op := Op.call { callee := Callee.value (Operand.func 21), args := #[Operand.tmp 73, Operand.tmp 74], argTypes := #[23, 23] }, type := 23, pos := "extended.go:33", after := #[{ on := 3, ground := Ground.data }, { on := 4, ground := Ground.data }, { on := 2, ground := Ground.chain }], guard := none }) rfl (by kernel_rfl) (by rfl) (exec_callL 21 [.tmp 73, .tmp 74] #[23, 23] rfl [vN one, vN d] rfl (CG21 _)) ((C11.out W132).mono ?_)
        rintro e133 W133 ⟨rfl, hb133⟩
        refine ⟨_, rfl, fun _ => hb133.mono HL_132.out, ?_⟩
        have RG_133 := Lib.hid (RG_132.out.keep hb133)
        have RX_133 := Lib.hid (RX_132.out.keep hb133)
        have RY_133 := Lib.hid (RY_132.out.keep hb133)
        have Na27_0_133 := Lib.hid (Na27_0_132.out.keep hb133)
        have Na35_0_133 := Lib.hid (Na35_0_132.out.keep hb133)
        have Na54_0_133 := Lib.hid (Na54_0_132.out.keep hb133)
        have Na73_0_133 := Lib.hid (Na73_0_132.out.keep hb133)
        have RZ121_133 := Lib.hid (RZ121_132.out.keep hb133)
        have RZ131_133 := Lib.hid (RZ131_132.out.keep hb133)
        have HF_133 : Hid (Keeps (· = g) w W133) := Lib.hid (HF_132.out.call hb133)
        have HL_133 : Hid (v91.heap.size ≤ W133.heap.size) := Lib.hid (Nat.le_trans HL_132.out hb133.size)
        clear hb133 HL_132 RG_132 RX_132 RY_132 Na27_0_132 Na35_0_132 Na54_0_132 Na73_0_132 RZ121_132 RZ131_132 HF_132
        simp only [Act.put, List.setIfInBounds_toArray, List.set_cons_zero, List.set_cons_succ]
        refine storeW_F (i := 8) (oi := { dst := none, op := Op.store 23 (Operand.tmp 10) (Operand.tmp 72), type := 0, pos := "extended.go:33", after := #[{ on := 6, ground := Ground.data }, { on := 2, ground := Ground.data }, { on := 5, ground := Ground.chain }, { on := 0, ground := Ground.phase }, { on := 1, ground := Ground.phase }, { on := 2, ground := Ground.phase }, { on := 3, ground := Ground.textOnly Departure.lateStores }, { on := 4, ground := Ground.textOnly Departure.lateStores }, { on := 5, ground := Ground.phase }, { on := 6, ground := Ground.phase }, { on := 7, ground := Ground.phase }], guard := none }) rfl (by kernel_rfl) (by rfl) (.tmp 10) (.tmp 72) rfl (g121) 0 0 rfl [0] ox rfl rfl RZ121_133.out (show 0 < 1 by omega) rfl ?_
        intro W134 hr134 hg134 hz134
        simp only [Act.put, List.setIfInBounds_toArray, List.set_cons_zero, List.set_cons_succ]
        have RG_134 := Lib.hid (RG_133.out.grown hg134 (by have := HX121_18.out; simp; omega))
        have RX_134 := Lib.hid (RX_133.out.grown hg134 (by have := HX121_19.out; simp; omega))
        have RY_134 := Lib.hid (RY_133.out.grown hg134 (by have := HX121_20.out; simp; omega))
        have Na27_0_134 := Lib.hid (Na27_0_133.out.grown hg134 (by have := HX121_21.out; simp; omega))
        have Na35_0_134 := Lib.hid (Na35_0_133.out.grown hg134 (by have := HX121_22.out; simp; omega))
        have Na54_0_134 := Lib.hid (Na54_0_133.out.grown hg134 (by have := HX121_23.out; simp; omega))
        have Na73_0_134 := Lib.hid (Na73_0_133.out.grown hg134 (by have := HX121_24.out; simp; omega))
        have RZ121_134 : Hid (RAt W134 g121 [ox]) := Lib.hid hr134
        have RZ131_134 := Lib.hid (RZ131_133.out.grown hg134 (by have := HX131_32.out; simp; omega))
        have HF_134 : Hid (Keeps (· = g) w W134) := Lib.hid (HF_133.out.newrow hg134 (show w.heap.size ≤ g121 from (by have := HG121.out; have := HLO92.out; omega)))
        have HL_134 : Hid (v91.heap.size ≤ W134.heap.size) := Lib.hid (Nat.le_trans HL_133.out hg134.size)
        clear hr134 hg134 hz134 HL_133 RG_133 RX_133 RY_133 Na27_0_133 Na35_0_133 Na54_0_133 Na73_0_133 RZ121_133 RZ131_133 HF_133
        refine storeW_F (i := 9) (oi := { dst := none, op := Op.store 23 (Operand.tmp 11) (Operand.tmp 75), type := 0, pos := "extended.go:33", after := #[{ on := 7, ground := Ground.data }, { on := 5, ground := Ground.data }, { on := 8, ground := Ground.chain }, { on := 0, ground := Ground.phase }, { on := 1, ground := Ground.phase }, { on := 2, ground := Ground.phase }, { on := 3, ground := Ground.phase }, { on := 4, ground := Ground.phase }, { on := 5, ground := Ground.phase }, { on := 6, ground := Ground.phase }, { on := 7, ground := Ground.phase }, { on := 8, ground := Ground.phase }], guard := none }) rfl (by kernel_rfl) (by rfl) (.tmp 11) (.tmp 75) rfl (g131) 0 0 rfl [0] oy rfl rfl RZ131_134.out (show 0 < 1 by omega) rfl ?_
        intro W135 hr135 hg135 hz135
        simp only [Act.put, List.setIfInBounds_toArray, List.set_cons_zero, List.set_cons_succ]
        have RG_135 := Lib.hid (RG_134.out.grown hg135 (by have := HX131_25.out; simp; omega))
        have RX_135 := Lib.hid (RX_134.out.grown hg135 (by have := HX131_26.out; simp; omega))
        have RY_135 := Lib.hid (RY_134.out.grown hg135 (by have := HX131_27.out; simp; omega))
        have Na27_0_135 := Lib.hid (Na27_0_134.out.grown hg135 (by have := HX131_28.out; simp; omega))
        have Na35_0_135 := Lib.hid (Na35_0_134.out.grown hg135 (by have := HX131_29.out; simp; omega))
        have Na54_0_135 := Lib.hid (Na54_0_134.out.grown hg135 (by have := HX131_30.out; simp; omega))
        have Na73_0_135 := Lib.hid (Na73_0_134.out.grown hg135 (by have := HX131_31.out; simp; omega))
        have RZ121_135 := Lib.hid (RZ121_134.out.grown hg135 (by have := HX131_32.out; simp; omega))
        have RZ131_135 : Hid (RAt W135 g131 [oy]) := Lib.hid hr135
        have HF_135 : Hid (Keeps (· = g) w W135) := Lib.hid (HF_134.out.newrow hg135 (show w.heap.size ≤ g131 from (by have := HG131.out; have := HLO92.out; omega)))
        have HL_135 : Hid (v91.heap.size ≤ W135.heap.size) := Lib.hid (Nat.le_trans HL_134.out hg135.size)
        clear hr135 hg135 hz135 HL_134 RG_134 RX_134 RY_134 Na27_0_134 Na35_0_134 Na54_0_134 Na73_0_134 RZ121_134 RZ131_134 HF_134
        refine doneW (by kernel_rfl) ⟨rfl, ?_⟩ _
        exact ⟨g121, g131, RG_135.out, RX_135.out, RY_135.out, Na27_0_135.out, Na35_0_135.out, Na54_0_135.out, Na73_0_135.out, RZ121_135.out, RZ131_135.out, HG121.out, HG131.out, (by have := HX131_32.out; omega), HF_135.out, rfl⟩
    · refine wpOp_value (i := 7) (oi := { dst := some 11, op := Op.alloc 23, type := 0, pos := "extended.go:33", after := #[], guard := none }) rfl (by rfl) (exec_alloc 23 rfl (.agg (zbs 32)) zero23 D92) ⟨fun _ => (below_alloc D92 _).mono HL_92.out, ?_⟩
      obtain ⟨W136, hW136, hb136, hz136⟩ := alloc_zero D92
      rw [← hW136]
      obtain ⟨g136, hg136⟩ : ∃ g, g = D92.heap.size := ⟨_, rfl⟩
      rw [← hg136] at hz136 ⊢
      have HG136 : Hid (v91.heap.size ≤ g136) := Lib.hid (by rw [hg136]; exact HL_92.out)
      have HX136_18 : Hid (g ≠ g136) := Lib.hid (by have := RG_92.out.lt; omega)
      have HX136_19 : Hid (gp ≠ g136) := Lib.hid (by have := RX_92.out.lt; omega)
      have HX136_20 : Hid (gq ≠ g136) := Lib.hid (by have := RY_92.out.lt; omega)
      have HX136_21 : Hid (a27_0 ≠ g136) := Lib.hid (by have := Na27_0_92.out.lt; omega)
      have HX136_22 : Hid (a35_0 ≠ g136) := Lib.hid (by have := Na35_0_92.out.lt; omega)
      have HX136_23 : Hid (a54_0 ≠ g136) := Lib.hid (by have := Na54_0_92.out.lt; omega)
      have HX136_24 : Hid (a73_0 ≠ g136) := Lib.hid (by have := Na73_0_92.out.lt; omega)
      have RG_136 := Lib.hid (RG_92.out.keep hb136)
      have RX_136 := Lib.hid (RX_92.out.keep hb136)
      have RY_136 := Lib.hid (RY_92.out.keep hb136)
      have Na27_0_136 := Lib.hid (Na27_0_92.out.keep hb136)
      have Na35_0_136 := Lib.hid (Na35_0_92.out.keep hb136)
      have Na54_0_136 := Lib.hid (Na54_0_92.out.keep hb136)
      have Na73_0_136 := Lib.hid (Na73_0_92.out.keep hb136)
      have HF_136 : Hid (Keeps (· = g) w W136) := Lib.hid (HF_92.out.call hb136)
      have HL_136 : Hid (v91.heap.size ≤ W136.heap.size) := Lib.hid (Nat.le_trans HL_92.out hb136.size)
      have RZ136_136 : Hid (RAt W136 g136 [0]) := Lib.hid (zrow (k := 1) hz136)
      clear hb136 hz136 hg136 hW136 HL_92 RG_92 RX_92 RY_92 Na27_0_92 Na35_0_92 Na54_0_92 Na73_0_92 HF_92
      simp only [Act.put, List.setIfInBounds_toArray, List.set_cons_zero, List.set_cons_succ]
      refine eachW [2, 6] (by kernel_rfl) (by simp) ?_
      intro k hk
      simp only [List.mem_cons, List.not_mem_nil, or_false] at hk
      rcases hk with rfl | rfl
      · refine wpOp_call (i := 2) (oi := { dst := some 72, op := Op.call { callee := Callee.value (Operand.func 19), args := #[Operand.tmp 70, Operand.tmp 71], argTypes := #[23, 23] }, type := 23, pos := "extended.go:33", after := #[{ on := 0, ground := Ground.data }, { on := 1, ground := Ground.data }], guard := none }) rfl (by rfl) (exec_callL 19 [.tmp 70, .tmp 71] #[23, 23] rfl [vN one, vN d] rfl (CG19 _)) ((C10.out W136).mono ?_)
        rintro e137 W137 ⟨rfl, hb137⟩
        refine ⟨_, rfl, fun _ => hb137.mono HL_136.out, ?_⟩
        have RG_137 := Lib.hid (RG_136.out.keep hb137)
        have RX_137 := Lib.hid (RX_136.out.keep hb137)
        have RY_137 := Lib.hid (RY_136.out.keep hb137)
        have Na27_0_137 := Lib.hid (Na27_0_136.out.keep hb137)
        have Na35_0_137 := Lib.hid (Na35_0_136.out.keep hb137)
        have Na54_0_137 := Lib.hid (Na54_0_136.out.keep hb137)
        have Na73_0_137 := Lib.hid (Na73_0_136.out.keep hb137)
        have RZ136_137 := Lib.hid (RZ136_136.out.keep hb137)
        have HF_137 : Hid (Keeps (· = g) w W137) := Lib.hid (HF_136.out.call hb137)
        have HL_137 : Hid (v91.heap.size ≤ W137.heap.size) := Lib.hid (Nat.le_trans HL_136.out hb137.size)
        clear hb137 HL_136 RG_136 RX_136 RY_136 Na27_0_136 Na35_0_136 Na54_0_136 Na73_0_136 RZ136_136 HF_136
        simp only [Act.put, List.setIfInBounds_toArray, List.set_cons_zero, List.set_cons_succ]
        refine eachW [5, 6] (by kernel_rfl) (by simp) ?_
        intro k hk
        simp only [List.mem_cons, List.not_mem_nil, or_false] at hk
        rcases hk with rfl | rfl
        · refine wpOp_call (i := 5) (oi := { dst := some 75, op := Op.call { callee := Callee.value (Operand.func 21), args := #[Operand.tmp 73, Operand.tmp 74], argTypes := #[23, 23] }, type := 23, pos := "extended.go:33", after := #[{ on := 3, ground := Ground.data }, { on := 4, ground := Ground.data }, { on := 2, ground := Ground.chain }], guard := none }) rfl (by rfl) (exec_callL 21 [.tmp 73, .tmp 74] #[23, 23] rfl [vN one, vN d] rfl (CG21 _)) ((C11.out W137).mono ?_)
          rintro e138 W138 ⟨rfl, hb138⟩
          refine ⟨_, rfl, fun _ => hb138.mono HL_137.out, ?_⟩
          have RG_138 := Lib.hid (RG_137.out.keep hb138)
          have RX_138 := Lib.hid (RX_137.out.keep hb138)
          have RY_138 := Lib.hid (RY_137.out.keep hb138)
          have Na27_0_138 := Lib.hid (Na27_0_137.out.keep hb138)
          have Na35_0_138 := Lib.hid (Na35_0_137.out.keep hb138)
          have Na54_0_138 := Lib.hid (Na54_0_137.out.keep hb138)
          have Na73_0_138 := Lib.hid (Na73_0_137.out.keep hb138)
          have RZ136_138 := Lib.hid (RZ136_137.out.keep hb138)
          have HF_138 : Hid (Keeps (· = g) w W138) := Lib.hid (HF_137.out.call hb138)
          have HL_138 : Hid (v91.heap.size ≤ W138.heap.size) := Lib.hid (Nat.le_trans HL_137.out hb138.size)
          clear hb138 HL_137 RG_137 RX_137 RY_137 Na27_0_137 Na35_0_137 Na54_0_137 Na73_0_137 RZ136_137 HF_137
          simp only [Act.put, List.setIfInBounds_toArray, List.set_cons_zero, List.set_cons_succ]
          refine opW _ _ (i := 6) (oi := { dst := some 10, op := Op.alloc 23, type := 0, pos := "extended.go:33", after := #[], guard := none }) rfl (by kernel_rfl) (by rfl) (exec_alloc 23 rfl (.agg (zbs 32)) zero23 W138) (fun _ => (below_alloc W138 _).mono HL_138.out) ?_
          obtain ⟨W139, hW139, hb139, hz139⟩ := alloc_zero W138
          rw [← hW139]
          obtain ⟨g139, hg139⟩ : ∃ g, g = W138.heap.size := ⟨_, rfl⟩
          rw [← hg139] at hz139 ⊢
          have HG139 : Hid (v91.heap.size ≤ g139) := Lib.hid (by rw [hg139]; exact HL_138.out)
          have HX139_25 : Hid (g ≠ g139) := Lib.hid (by have := RG_138.out.lt; omega)
          have HX139_26 : Hid (gp ≠ g139) := Lib.hid (by have := RX_138.out.lt; omega)
          have HX139_27 : Hid (gq ≠ g139) := Lib.hid (by have := RY_138.out.lt; omega)
          have HX139_28 : Hid (a27_0 ≠ g139) := Lib.hid (by have := Na27_0_138.out.lt; omega)
          have HX139_29 : Hid (a35_0 ≠ g139) := Lib.hid (by have := Na35_0_138.out.lt; omega)
          have HX139_30 : Hid (a54_0 ≠ g139) := Lib.hid (by have := Na54_0_138.out.lt; omega)
          have HX139_31 : Hid (a73_0 ≠ g139) := Lib.hid (by have := Na73_0_138.out.lt; omega)
          have HX139_32 : Hid (g136 ≠ g139) := Lib.hid (by have := RZ136_138.out.lt; omega)
          have RG_139 := Lib.hid (RG_138.out.keep hb139)
          have RX_139 := Lib.hid (RX_138.out.keep hb139)
          have RY_139 := Lib.hid (RY_138.out.keep hb139)
          have Na27_0_139 := Lib.hid (Na27_0_138.out.keep hb139)
          have Na35_0_139 := Lib.hid (Na35_0_138.out.keep hb139)
          have Na54_0_139 := Lib.hid (Na54_0_138.out.keep hb139)
          have Na73_0_139 := Lib.hid (Na73_0_138.out.keep hb139)
          have RZ136_139 := Lib.hid (RZ136_138.out.keep hb139)
          have HF_139 : Hid (Keeps (· = g) w W139) := Lib.hid (HF_138.out.call hb139)
          have HL_139 : Hid (v91.heap.size ≤ W139.heap.size) := Lib.hid (Nat.le_trans HL_138.out hb139.size)
          have RZ139_139 : Hid (RAt W139 g139 [0]) := Lib.hid (zrow (k := 1) hz139)
          clear hb139 hz139 hg139 hW139 HL_138 RG_138 RX_138 RY_138 Na27_0_138 Na35_0_138 Na54_0_138 Na73_0_138 RZ136_138 HF_138
          simp only [Act.put, List.setIfInBounds_toArray, List.set_cons_zero, List.set_cons_succ]
          refine storeW_F (i := 8) (oi := { dst := none, op := Op.store 23 (Operand.tmp 10) (Operand.tmp 72), type := 0, pos := "extended.go:33", after := #[{ on := 6, ground := Ground.data }, { on := 2, ground := Ground.data }, { on := 5, ground := Ground.chain }, { on := 0, ground := Ground.phase }, { on := 1, ground := Ground.phase }, { on := 2, ground := Ground.phase }, { on := 3, ground := Ground.textOnly Departure.lateStores }, { on := 4, ground := Ground.textOnly Departure.lateStores }, { on := 5, ground := Ground.phase }, { on := 6, ground := Ground.phase }, { on := 7, ground := Ground.phase }], guard := none }) rfl (by kernel_rfl) (by rfl) (.tmp 10) (.tmp 72) rfl (g139) 0 0 rfl [0] ox rfl rfl RZ139_139.out (show 0 < 1 by omega) rfl ?_
          intro W140 hr140 hg140 hz140
          simp only [Act.put, List.setIfInBounds_toArray, List.set_cons_zero, List.set_cons_succ]
          have RG_140 := Lib.hid (RG_139.out.grown hg140 (by have := HX139_25.out; simp; omega))
          have RX_140 := Lib.hid (RX_139.out.grown hg140 (by have := HX139_26.out; simp; omega))
          have RY_140 := Lib.hid (RY_139.out.grown hg140 (by have := HX139_27.out; simp; omega))
          have Na27_0_140 := Lib.hid (Na27_0_139.out.grown hg140 (by have := HX139_28.out; simp; omega))
          have Na35_0_140 := Lib.hid (Na35_0_139.out.grown hg140 (by have := HX139_29.out; simp; omega))
          have Na54_0_140 := Lib.hid (Na54_0_139.out.grown hg140 (by have := HX139_30.out; simp; omega))
          have Na73_0_140 := Lib.hid (Na73_0_139.out.grown hg140 (by have := HX139_31.out; simp; omega))
          have RZ136_140 := Lib.hid (RZ136_139.out.grown hg140 (by have := HX139_32.out; simp; omega))
          have RZ139_140 : Hid (RAt W140 g139 [ox]) := Lib.hid hr140
          have HF_140 : Hid (Keeps (· = g) w W140) := Lib.hid (HF_139.out.newrow hg140 (show w.heap.size ≤ g139 from (by have := HG139.out; have := HLO92.out; omega)))
          have HL_140 : Hid (v91.heap.size ≤ W140.heap.size) := Lib.hid (Nat.le_trans HL_139.out hg140.size)
          clear hr140 hg140 hz140 HL_139 RG_139 RX_139 RY_139 Na27_0_139 Na35_0_139 Na54_0_139 Na73_0_139 RZ136_139 RZ139_139 HF_139
          refine storeW_F (i := 9) (oi := { dst := none, op := Op.store 23 (Operand.tmp 11) (Operand.tmp 75), type := 0, pos := "extended.go:33", after := #[{ on := 7, ground := Ground.data }, { on := 5, ground := Ground.data }, { on := 8, ground := Ground.chain }, { on := 0, ground := Ground.phase }, { on := 1, ground := Ground.phase }, { on := 2, ground := Ground.phase }, { on := 3, ground := Ground.phase }, { on := 4, ground := Ground.phase }, { on := 5, ground := Ground.phase }, { on := 6, ground := Ground.phase }, { on := 7, ground := Ground.phase }, { on := 8, ground := Ground.phase }], guard := none }) rfl (by kernel_rfl) (by rfl) (.tmp 11) (.tmp 75) rfl (g136) 0 0 rfl [0] oy rfl rfl RZ136_140.out (show 0 < 1 by omega) rfl ?_
          intro W141 hr141 hg141 hz141
          simp only [Act.put, List.setIfInBounds_toArray, List.set_cons_zero, List.set_cons_succ]
          have RG_141 := Lib.hid (RG_140.out.grown hg141 (by have := HX136_18.out; simp; omega))
          have RX_141 := Lib.hid (RX_140.out.grown hg141 (by have := HX136_19.out; simp; omega))
          have RY_141 := Lib.hid (RY_140.out.grown hg141 (by have := HX136_20.out; simp; omega))
          have Na27_0_141 := Lib.hid (Na27_0_140.out.grown hg141 (by have := HX136_21.out; simp; omega))
          have Na35_0_141 := Lib.hid (Na35_0_140.out.grown hg141 (by have := HX136_22.out; simp; omega))
          have Na54_0_141 := Lib.hid (Na54_0_140.out.grown hg141 (by have := HX136_23.out; simp; omega))
          have Na73_0_141 := Lib.hid (Na73_0_140.out.grown hg141 (by have := HX136_24.out; simp; omega))
          have RZ136_141 : Hid (RAt W141 g136 [oy]) := Lib.hid hr141
          have RZ139_141 := Lib.hid (RZ139_140.out.grown hg141 (by have := HX139_32.out; simp; omega))
          have HF_141 : Hid (Keeps (· = g) w W141) := Lib.hid (HF_140.out.newrow hg141 (show w.heap.size ≤ g136 from (by have := HG136.out; have := HLO92.out; omega)))
          have HL_141 : Hid (v91.heap.size ≤ W141.heap.size) := Lib.hid (Nat.le_trans HL_140.out hg141.size)
          clear hr141 hg141 hz141 HL_140 RG_140 RX_140 RY_140 Na27_0_140 Na35_0_140 Na54_0_140 Na73_0_140 RZ136_140 RZ139_140 HF_140
          refine doneW (by kernel_rfl) ⟨rfl, ?_⟩ _
          exact ⟨g139, g136, RG_141.out, RX_141.out, RY_141.out, Na27_0_141.out, Na35_0_141.out, Na54_0_141.out, Na73_0_141.out, RZ139_141.out, RZ136_141.out, HG139.out, HG136.out, (by have := HX139_32.out; omega), HF_141.out, rfl⟩
        · refine wpOp_value (i := 6) (oi := { dst := some 10, op := Op.alloc 23, type := 0, pos := "extended.go:33", after := #[], guard := none }) rfl (by rfl) (exec_alloc 23 rfl (.agg (zbs 32)) zero23 W137) ⟨fun _ => (below_alloc W137 _).mono HL_137.out, ?_⟩
          obtain ⟨W142, hW142, hb142, hz142⟩ := alloc_zero W137
          rw [← hW142]
          obtain ⟨g142, hg142⟩ : ∃ g, g = W137.heap.size := ⟨_, rfl⟩
          rw [← hg142] at hz142 ⊢
          have HG142 : Hid (v91.heap.size ≤ g142) := Lib.hid (by rw [hg142]; exact HL_137.out)
          have HX142_25 : Hid (g ≠ g142) := Lib.hid (by have := RG_137.out.lt; omega)
          have HX142_26 : Hid (gp ≠ g142) := Lib.hid (by have := RX_137.out.lt; omega)
          have HX142_27 : Hid (gq ≠ g142) := Lib.hid (by have := RY_137.out.lt; omega)
          have HX142_28 : Hid (a27_0 ≠ g142) := Lib.hid (by have := Na27_0_137.out.lt; omega)
          have HX142_29 : Hid (a35_0 ≠ g142) := Lib.hid (by have := Na35_0_137.out.lt; omega)
          have HX142_30 : Hid (a54_0 ≠ g142) := Lib.hid (by have := Na54_0_137.out.lt; omega)
          have HX142_31 : Hid (a73_0 ≠ g142) := Lib.hid (by have := Na73_0_137.out.lt; omega)
          have HX142_32 : Hid (g136 ≠ g142) := Lib.hid (by have := RZ136_137.out.lt; omega)
          have RG_142 := Lib.hid (RG_137.out.keep hb142)
          have RX_142 := Lib.hid (RX_137.out.keep hb142)
          have RY_142 := Lib.hid (RY_137.out.keep hb142)
          have Na27_0_142 := Lib.hid (Na27_0_137.out.keep hb142)
          have Na35_0_142 := Lib.hid (Na35_0_137.out.keep hb142)
          have Na54_0_142 := Lib.hid (Na54_0_137.out.keep hb142)
          have Na73_0_142 := Lib.hid (Na73_0_137.out.keep hb142)
          have RZ136_142 := Lib.hid (RZ136_137.out.keep hb142)
          have HF_142 : Hid (Keeps (· = g) w W142) := Lib.hid (HF_137.out.call hb142)
          have HL_142 : Hid (v91.heap.size ≤ W142.heap.size) := Lib.hid (Nat.le_trans HL_137.out hb142.size)
          have RZ142_142 : Hid (RAt W142 g142 [0]) := Lib.hid (zrow (k := 1) hz142)
          clear hb142 hz142 hg142 hW142 HL_137 RG_137 RX_137 RY_137 Na27_0_137 Na35_0_137 Na54_0_137 Na73_0_137 RZ136_137 HF_137
          simp only [Act.put, List.setIfInBounds_toArray, List.set_cons_zero, List.set_cons_succ]
          refine callW (i := 5) (oi := { dst := some 75, op := Op.call { callee := Callee.value (Operand.func 21), args := #[Operand.tmp 73, Operand.tmp 74], argTypes := #[23, 23] }, type := 23, pos := "extended.go:33", after := #[{ on := 3, ground := Ground.data }, { on := 4, ground := Ground.data }, { on := 2, ground := Ground.chain }], guard := none }) rfl (by kernel_rfl) (by rfl) (exec_callL 21 [.tmp 73, .tmp 74] #[23, 23] rfl [vN one, vN d] rfl (CG21 _)) ((C11.out W142).mono ?_)
          rintro e143 W143 ⟨rfl, hb143⟩
          refine ⟨_, rfl, fun _ => hb143.mono HL_142.out, ?_⟩
          have RG_143 := Lib.hid (RG_142.out.keep hb143)
          have RX_143 := Lib.hid (RX_142.out.keep hb143)
          have RY_143 := Lib.hid (RY_142.out.keep hb143)
          have Na27_0_143 := Lib.hid (Na27_0_142.out.keep hb143)
          have Na35_0_143 := Lib.hid (Na35_0_142.out.keep hb143)
          have Na54_0_143 := Lib.hid (Na54_0_142.out.keep hb143)
          have Na73_0_143 := Lib.hid (Na73_0_142.out.keep hb143)
          have RZ136_143 := Lib.hid (RZ136_142.out.keep hb143)
          have RZ142_143 := Lib.hid (RZ142_142.out.keep hb143)
          have HF_143 : Hid (Keeps (· = g) w W143) := Lib.hid (HF_142.out.call hb143)
          have HL_143 : Hid (v91.heap.size ≤ W143.heap.size) := Lib.hid (Nat.le_trans HL_142.out hb143.size)
          clear hb143 HL_142 RG_142 RX_142 RY_142 Na27_0_142 Na35_0_142 Na54_0_142 Na73_0_142 RZ136_142 RZ142_142 HF_142
          simp only [Act.put, List.setIfInBounds_toArray, List.set_cons_zero, List.set_cons_succ]
          refine storeW_F (i := 8) (oi := { dst := none, op := Op.store 23 (Operand.tmp 10) (Operand.tmp 72), type := 0, pos := "extended.go:33", after := #[{ on := 6, ground := Ground.data }, { on := 2, ground := Ground.data }, { on := 5, ground := Ground.chain }, { on := 0, ground := Ground.phase }, { on := 1, ground := Ground.phase }, { on := 2, ground := Ground.phase }, { on := 3, ground := Ground.textOnly Departure.lateStores }, { on := 4, ground := Ground.textOnly Departure.lateStores }, { on := 5, ground := Ground.phase }, { on := 6, ground := Ground.phase }, { on := 7, ground := Ground.phase }], guard := none }) rfl (by kernel_rfl) (by rfl) (.tmp 10) (.tmp 72) rfl (g142) 0 0 rfl [0] ox rfl rfl RZ142_143.out (show 0 < 1 by omega) rfl ?_
          intro W144 hr144 hg144 hz144
          simp only [Act.put, List.setIfInBounds_toArray, List.set_cons_zero, List.set_cons_succ]
          have RG_144 := Lib.hid (RG_143.out.grown hg144 (by have := HX142_25.out; simp; omega))
          have RX_144 := Lib.hid (RX_143.out.grown hg144 (by have := HX142_26.out; simp; omega))
          have RY_144 := Lib.hid (RY_143.out.grown hg144 (by have := HX142_27.out; simp; omega))
          have Na27_0_144 := Lib.hid (Na27_0_143.out.grown hg144 (by have := HX142_28.out; simp; omega))
          have Na35_0_144 := Lib.hid (Na35_0_143.out.grown hg144 (by have := HX142_29.out; simp; omega))
          have Na54_0_144 := Lib.hid (Na54_0_143.out.grown hg144 (by have := HX142_30.out; simp; omega))
          have Na73_0_144 := Lib.hid (Na73_0_143.out.grown hg144 (by have := HX142_31.out; simp; omega))
          have RZ136_144 := Lib.hid (RZ136_143.out.grown hg144 (by have := HX142_32.out; simp; omega))
          have RZ142_144 : Hid (RAt W144 g142 [ox]) := Lib.hid hr144
          have HF_144 : Hid (Keeps (· = g) w W144) := Lib.hid (HF_143.out.newrow hg144 (show w.heap.size ≤ g142 from (by have := HG142.out; have := HLO92.out; omega)))
          have HL_144 : Hid (v91.heap.size ≤ W144.heap.size) := Lib.hid (Nat.le_trans HL_143.out hg144.size)
          clear hr144 hg144 hz144 HL_143 RG_143 RX_143 RY_143 Na27_0_143 Na35_0_143 Na54_0_143 Na73_0_143 RZ136_143 RZ142_143 HF_143
          refine storeW_F (i := 9) (oi := { dst := none, op := Op.store 23 (Operand.tmp 11) (Operand.tmp 75), type := 0, pos := "extended.go:33", after := #[{ on := 7, ground := Ground.data }, { on := 5, ground := Ground.data }, { on := 8, ground := Ground.chain }, { on := 0, ground := Ground.phase }, { on := 1, ground := Ground.phase }, { on := 2, ground := Ground.phase }, { on := 3, ground := Ground.phase }, { on := 4, ground := Ground.phase }, { on := 5, ground := Ground.phase }, { on := 6, ground := Ground.phase }, { on := 7, ground := Ground.phase }, { on := 8, ground := Ground.phase }], guard := none }) rfl (by kernel_rfl) (by rfl) (.tmp 11) (.tmp 75) rfl (g136) 0 0 rfl [0] oy rfl rfl RZ136_144.out (show 0 < 1 by omega) rfl ?_
          intro W145 hr145 hg145 hz145
          simp only [Act.put, List.setIfInBounds_toArray, List.set_cons_zero, List.set_cons_succ]
          have RG_145 := Lib.hid (RG_144.out.grown hg145 (by have := HX136_18.out; simp; omega))
          have RX_145 := Lib.hid (RX_144.out.grown hg145 (by have := HX136_19.out; simp; omega))
          have RY_145 := Lib.hid (RY_144.out.grown hg145 (by have := HX136_20.out; simp; omega))
          have Na27_0_145 := Lib.hid (Na27_0_144.out.grown hg145 (by have := HX136_21.out; simp; omega))
          have Na35_0_145 := Lib.hid (Na35_0_144.out.grown hg145 (by have := HX136_22.out; simp; omega))
          have Na54_0_145 := Lib.hid (Na54_0_144.out.grown hg145 (by have := HX136_23.out; simp; omega))
          have Na73_0_145 := Lib.hid (Na73_0_144.out.grown hg145 (by have := HX136_24.out; simp; omega))
          have RZ136_145 : Hid (RAt W145 g136 [oy]) := Lib.hid hr145
          have RZ142_145 := Lib.hid (RZ142_144.out.grown hg145 (by have := HX142_32.out; simp; omega))
          have HF_145 : Hid (Keeps (· = g) w W145) := Lib.hid (HF_144.out.newrow hg145 (show w.heap.size ≤ g136 from (by have := HG136.out; have := HLO92.out; omega)))
          have HL_145 : Hid (v91.heap.size ≤ W145.heap.size) := Lib.hid (Nat.le_trans HL_144.out hg145.size)
          clear hr145 hg145 hz145 HL_144 RG_144 RX_144 RY_144 Na27_0_144 Na35_0_144 Na54_0_144 Na73_0_144 RZ136_144 RZ142_144 HF_144
          refine doneW (by kernel_rfl) ⟨rfl, ?_⟩ _
          exact ⟨g142, g136, RG_145.out, RX_145.out, RY_145.out, Na27_0_145.out, Na35_0_145.out, Na54_0_145.out, Na73_0_145.out, RZ142_145.out, RZ136_145.out, HG142.out, HG136.out, (by have := HX142_32.out; omega), HF_145.out, rfl⟩
      · refine wpOp_value (i := 6) (oi := { dst := some 10, op := Op.alloc 23, type := 0, pos := "extended.go:33", after := #[], guard := none }) rfl (by rfl) (exec_alloc 23 rfl (.agg (zbs 32)) zero23 W136) ⟨fun _ => (below_alloc W136 _).mono HL_136.out, ?_⟩
        obtain ⟨W146, hW146, hb146, hz146⟩ := alloc_zero W136
        rw [← hW146]
        obtain ⟨g146, hg146⟩ : ∃ g, g = W136.heap.size := ⟨_, rfl⟩
        rw [← hg146] at hz146 ⊢
        have HG146 : Hid (v91.heap.size ≤ g146) := Lib.hid (by rw [hg146]; exact HL_136.out)
        have HX146_25 : Hid (g ≠ g146) := Lib.hid (by have := RG_136.out.lt; omega)
        have HX146_26 : Hid (gp ≠ g146) := Lib.hid (by have := RX_136.out.lt; omega)
        have HX146_27 : Hid (gq ≠ g146) := Lib.hid (by have := RY_136.out.lt; omega)
        have HX146_28 : Hid (a27_0 ≠ g146) := Lib.hid (by have := Na27_0_136.out.lt; omega)
        have HX146_29 : Hid (a35_0 ≠ g146) := Lib.hid (by have := Na35_0_136.out.lt; omega)
        have HX146_30 : Hid (a54_0 ≠ g146) := Lib.hid (by have := Na54_0_136.out.lt; omega)
        have HX146_31 : Hid (a73_0 ≠ g146) := Lib.hid (by have := Na73_0_136.out.lt; omega)
        have HX146_32 : Hid (g136 ≠ g146) := Lib.hid (by have := RZ136_136.out.lt; omega)
        have RG_146 := Lib.hid (RG_136.out.keep hb146)
        have RX_146 := Lib.hid (RX_136.out.keep hb146)
        have RY_146 := Lib.hid (RY_136.out.keep hb146)
        have Na27_0_146 := Lib.hid (Na27_0_136.out.keep hb146)
        have Na35_0_146 := Lib.hid (Na35_0_136.out.keep hb146)
        have Na54_0_146 := Lib.hid (Na54_0_136.out.keep hb146)
        have Na73_0_146 := Lib.hid (Na73_0_136.out.keep hb146)
        have RZ136_146 := Lib.hid (RZ136_136.out.keep hb146)
        have HF_146 : Hid (Keeps (· = g) w W146) := Lib.hid (HF_136.out.call hb146)
        have HL_146 : Hid (v91.heap.size ≤ W146.heap.size) := Lib.hid (Nat.le_trans HL_136.out hb146.size)
        have RZ146_146 : Hid (RAt W146 g146 [0]) := Lib.hid (zrow (k := 1) hz146)
        clear hb146 hz146 hg146 hW146 HL_136 RG_136 RX_136 RY_136 Na27_0_136 Na35_0_136 Na54_0_136 Na73_0_136 RZ136_136 HF_136
        simp only [Act.put, List.setIfInBounds_toArray, List.set_cons_zero, List.set_cons_succ]
        refine callW (i := 2) (oi := { dst := some 72, op := Op.call { callee := Callee.value (Operand.func 19), args := #[Operand.tmp 70, Operand.tmp 71], argTypes := #[23, 23] }, type := 23, pos := "extended.go:33", after := #[{ on := 0, ground := Ground.data }, { on := 1, ground := Ground.data }], guard := none }) rfl (by kernel_rfl) (by rfl) (exec_callL 19 [.tmp 70, .tmp 71] #[23, 23] rfl [vN one, vN d] rfl (CG19 _)) ((C10.out W146).mono ?_)
        rintro e147 W147 ⟨rfl, hb147⟩
        refine ⟨_, rfl, fun _ => hb147.mono HL_146.out, ?_⟩
        have RG_147 := Lib.hid (RG_146.out.keep hb147)
        have RX_147 := Lib.hid (RX_146.out.keep hb147)
        have RY_147 := Lib.hid (RY_146.out.keep hb147)
        have Na27_0_147 := Lib.hid (Na27_0_146.out.keep hb147)
        have Na35_0_147 := Lib.hid (Na35_0_146.out.keep hb147)
        have Na54_0_147 := Lib.hid (Na54_0_146.out.keep hb147)
        have Na73_0_147 := Lib.hid (Na73_0_146.out.keep hb147)
        have RZ136_147 := Lib.hid (RZ136_146.out.keep hb147)
        have RZ146_147 := Lib.hid (RZ146_146.out.keep hb147)
        have HF_147 : Hid (Keeps (· = g) w W147) := Lib.hid (HF_146.out.call hb147)
        have HL_147 : Hid (v91.heap.size ≤ W147.heap.size) := Lib.hid (Nat.le_trans HL_146.out hb147.size)
        clear hb147 HL_146 RG_146 RX_146 RY_146 Na27_0_146 Na35_0_146 Na54_0_146 Na73_0_146 RZ136_146 RZ146_146 HF_146
        simp only [Act.put, List.setIfInBounds_toArray, List.set_cons_zero, List.set_cons_succ]
        refine callW (i := 5) (oi := { dst := some 75, op := Op.call { callee := Callee.value (Operand.func 21), args := #[Operand.tmp 73, Operand.tmp 74], argTypes := #[23, 23] }, type := 23, pos := "extended.go:33", after := #[{ on := 3, ground := Ground.data }, { on := 4, ground := Ground.data }, { on := 2, ground := Ground.chain }], guard := none }) rfl (by kernel_rfl) (by rfl) (exec_callL 21 [.tmp 73, .tmp 74] #[23, 23] rfl [vN one, vN d] rfl (CG21 _)) ((C11.out W147).mono ?_)
        rintro e148 W148 ⟨rfl, hb148⟩
        refine ⟨_, rfl, fun _ => hb148.mono HL_147.out, ?_⟩
        have RG_148 := Lib.hid (RG_147.out.keep hb148)
        have RX_148 := Lib.hid (RX_147.out.keep hb148)
        have RY_148 := Lib.hid (RY_147.out.keep hb148)
        have Na27_0_148 := Lib.hid (Na27_0_147.out.keep hb148)
        have Na35_0_148 := Lib.hid (Na35_0_147.out.keep hb148)
        have Na54_0_148 := Lib.hid (Na54_0_147.out.keep hb148)
        have Na73_0_148 := Lib.hid (Na73_0_147.out.keep hb148)
        have RZ136_148 := Lib.hid (RZ136_147.out.keep hb148)
        have RZ146_148 := Lib.hid (RZ146_147.out.keep hb148)
        have HF_148 : Hid (Keeps (· = g) w W148) := Lib.hid (HF_147.out.call hb148)
        have HL_148 : Hid (v91.heap.size ≤ W148.heap.size) := Lib.hid (Nat.le_trans HL_147.out hb148.size)
        clear hb148 HL_147 RG_147 RX_147 RY_147 Na27_0_147 Na35_0_147 Na54_0_147 Na73_0_147 RZ136_147 RZ146_147 HF_147
        simp only [Act.put, List.setIfInBounds_toArray, List.set_cons_zero, List.set_cons_succ]
        refine storeW_F (i := 8) (oi := { dst := none, op := Op.store 23 (Operand.tmp 10) (Operand.tmp 72), type := 0, pos := "extended.go:33", after := #[{ on := 6, ground := Ground.data }, { on := 2, ground := Ground.data }, { on := 5, ground := Ground.chain }, { on := 0, ground := Ground.phase }, { on := 1, ground := Ground.phase }, { on := 2, ground := Ground.phase }, { on := 3, ground := Ground.textOnly Departure.lateStores }, { on := 4, ground := Ground.textOnly Departure.lateStores }, { on := 5, ground := Ground.phase }, { on := 6, ground := Ground.phase }, { on := 7, ground := Ground.phase }], guard := none }) rfl (by kernel_rfl) (by rfl) (.tmp 10) (.tmp 72) rfl (g146) 0 0 rfl [0] ox rfl rfl RZ146_148.out (show 0 < 1 by omega) rfl ?_
        intro W149 hr149 hg149 hz149
        simp only [Act.put, List.setIfInBounds_toArray, List.set_cons_zero, List.set_cons_succ]
        have RG_149 := Lib.hid (RG_148.out.grown hg149 (by have := HX146_25.out; simp; omega))
        have RX_149 := Lib.hid (RX_148.out.grown hg149 (by have := HX146_26.out; simp; omega))
        have RY_149 := Lib.hid (RY_148.out.grown hg149 (by have := HX146_27.out; simp; omega))
        have Na27_0_149 := Lib.hid (Na27_0_148.out.grown hg149 (by have := HX146_28.out; simp; omega))
        have Na35_0_149 := Lib.hid (Na35_0_148.out.grown hg149 (by have := HX146_29.out; simp; omega))
        have Na54_0_149 := Lib.hid (Na54_0_148.out.grown hg149 (by have := HX146_30.out; simp; omega))
        have Na73_0_149 := Lib.hid (Na73_0_148.out.grown hg149 (by have := HX146_31.out; simp; omega))
        have RZ136_149 := Lib.hid (RZ136_148.out.grown hg149 (by have := HX146_32.out; simp; omega))
        have RZ146_149 : Hid (RAt W149 g146 [ox]) := Lib.hid hr149
        have HF_149 : Hid (Keeps (· = g) w W149) := Lib.hid (HF_148.out.newrow hg149 (show w.heap.size ≤ g146 from (by have := HG146.out; have := HLO92.out; omega)))
        have HL_149 : Hid (v91.heap.size ≤ W149.heap.size) := Lib.hid (Nat.le_trans HL_148.out hg149.size)
        clear hr149 hg149 hz149 HL_148 RG_148 RX_148 RY_148 Na27_0_148 Na35_0_148 Na54_0_148 Na73_0_148 RZ136_148 RZ146_148 HF_148
        refine storeW_F (i := 9) (oi := { dst := none, op := Op.store 23 (Operand.tmp 11) (Operand.tmp 75), type := 0, pos := "extended.go:33", after := #[{ on := 7, ground := Ground.data }, { on := 5, ground := Ground.data }, { on := 8, ground := Ground.chain }, { on := 0, ground := Ground.phase }, { on := 1, ground := Ground.phase }, { on := 2, ground := Ground.phase }, { on := 3, ground := Ground.phase }, { on := 4, ground := Ground.phase }, { on := 5, ground := Ground.phase }, { on := 6, ground := Ground.phase }, { on := 7, ground := Ground.phase }, { on := 8, ground := Ground.phase }], guard := none }) rfl (by kernel_rfl) (by rfl) (.tmp 11) (.tmp 75) rfl (g136) 0 0 rfl [0] oy rfl rfl RZ136_149.out (show 0 < 1 by omega) rfl ?_
        intro W150 hr150 hg150 hz150
        simp only [Act.put, List.setIfInBounds_toArray, List.set_cons_zero, List.set_cons_succ]
        have RG_150 := Lib.hid (RG_149.out.grown hg150 (by have := HX136_18.out; simp; omega))
        have RX_150 := Lib.hid (RX_149.out.grown hg150 (by have := HX136_19.out; simp; omega))
        have RY_150 := Lib.hid (RY_149.out.grown hg150 (by have := HX136_20.out; simp; omega))
        have Na27_0_150 := Lib.hid (Na27_0_149.out.grown hg150 (by have := HX136_21.out; simp; omega))
        have Na35_0_150 := Lib.hid (Na35_0_149.out.grown hg150 (by have := HX136_22.out; simp; omega))
        have Na54_0_150 := Lib.hid (Na54_0_149.out.grown hg150 (by have := HX136_23.out; simp; omega))
        have Na73_0_150 := Lib.hid (Na73_0_149.out.grown hg150 (by have := HX136_24.out; simp; omega))
        have RZ136_150 : Hid (RAt W150 g136 [oy]) := Lib.hid hr150
        have RZ146_150 := Lib.hid (RZ146_149.out.grown hg150 (by have := HX146_32.out; simp; omega))
        have HF_150 : Hid (Keeps (· = g) w W150) := Lib.hid (HF_149.out.newrow hg150 (show w.heap.size ≤ g136 from (by have := HG136.out; have := HLO92.out; omega)))
        have HL_150 : Hid (v91.heap.size ≤ W150.heap.size) := Lib.hid (Nat.le_trans HL_149.out hg150.size)
        clear hr150 hg150 hz150 HL_149 RG_149 RX_149 RY_149 Na27_0_149 Na35_0_149 Na54_0_149 Na73_0_149 RZ136_149 RZ146_149 HF_149
        refine doneW (by kernel_rfl) ⟨rfl, ?_⟩ _
        exact ⟨g146, g136, RG_150.out, RX_150.out, RY_150.out, Na27_0_150.out, Na35_0_150.out, Na54_0_150.out, Na73_0_150.out, RZ146_150.out, RZ136_150.out, HG146.out, HG136.out, (by have := HX146_32.out; omega), HF_150.out, rfl⟩
  rintro a' v151 ⟨a92_0, a92_1, h0, h1, h2, h3, h4, h5, h6, h7, h8, k0, k1, q0, hF, rfl⟩
  have RG_151 := Lib.hid h0
  have RX_151 := Lib.hid h1
  have RY_151 := Lib.hid h2
  have Na27_0_151 := Lib.hid h3
  have Na35_0_151 := Lib.hid h4
  have Na54_0_151 := Lib.hid h5
  have Na73_0_151 := Lib.hid h6
  have Na92_0_151 := Lib.hid h7
  have Na92_1_151 := Lib.hid h8
  have HNE151_18 : Hid (g ≠ a92_0) := Lib.hid (by have := HLT92_0.out; omega)
  have HNE151_19 : Hid (gp ≠ a92_0) := Lib.hid (by have := HLT92_1.out; omega)
  have HNE151_20 : Hid (gq ≠ a92_0) := Lib.hid (by have := HLT92_2.out; omega)
  have HNE151_21 : Hid (a27_0 ≠ a92_0) := Lib.hid (by have := HLT92_3.out; omega)
  have HNE151_22 : Hid (a35_0 ≠ a92_0) := Lib.hid (by have := HLT92_4.out; omega)
  have HNE151_23 : Hid (a54_0 ≠ a92_0) := Lib.hid (by have := HLT92_5.out; omega)
  have HNE151_24 : Hid (a73_0 ≠ a92_0) := Lib.hid (by have := HLT92_6.out; omega)
  have HGE151_0 : Hid (w.heap.size ≤ a92_0) := Lib.hid (by have := HLO92.out; omega)
  have HNE151_25 : Hid (g ≠ a92_1) := Lib.hid (by have := HLT92_0.out; omega)
  have HNE151_26 : Hid (gp ≠ a92_1) := Lib.hid (by have := HLT92_1.out; omega)
  have HNE151_27 : Hid (gq ≠ a92_1) := Lib.hid (by have := HLT92_2.out; omega)
  have HNE151_28 : Hid (a27_0 ≠ a92_1) := Lib.hid (by have := HLT92_3.out; omega)
  have HNE151_29 : Hid (a35_0 ≠ a92_1) := Lib.hid (by have := HLT92_4.out; omega)
  have HNE151_30 : Hid (a54_0 ≠ a92_1) := Lib.hid (by have := HLT92_5.out; omega)
  have HNE151_31 : Hid (a73_0 ≠ a92_1) := Lib.hid (by have := HLT92_6.out; omega)
  have HGE151_1 : Hid (w.heap.size ≤ a92_1) := Lib.hid (by have := HLO92.out; omega)
  have HNE151_32 := Lib.hid q0
  have HF_151 := Lib.hid hF
  clear h0 h1 h2 h3 h4 h5 h6 h7 h8 k0 k1 q0 hF HLT92_0 HLT92_1 HLT92_2 HLT92_3 HLT92_4 HLT92_5 HLT92_6 HLO92 RG_91 RX_91 RY_91 Na27_0_91 Na35_0_91 Na54_0_91 Na73_0_91 HF_91
  go_wp2_with fail
  refine (HD.out _ _ _ _ _ RG_151.out Na54_0_151.out Na92_0_151.out Na73_0_151.out Na92_1_151.out HNE72_7.out HNE151_18.out HNE91_12.out HNE151_25.out).mono ?_
  rintro e we ⟨rfl, hr, hk⟩
  have HKE := Lib.hid (HF_151.out.trans hk)
  have HRE := Lib.hid hr
  clear hr hk RG_151 RX_151 RY_151 Na27_0_151 Na35_0_151 Na54_0_151 Na73_0_151 Na92_0_151 Na92_1_151 HF_151
  go_wp2_with fail
  refine bodyPost_end (results_none rfl _ _ _) rfl ?_
  exact ⟨rfl, HRE.out, HKE.out⟩
end Go.Proofs.Ytgdimnbdnepbgaa
