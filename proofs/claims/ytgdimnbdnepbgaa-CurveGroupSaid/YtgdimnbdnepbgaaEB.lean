/- Points in extended coordinates: read, divide. No statement is proved here. -/
import Derived.Test.YtgdimnbdnepbgaaEA
import Derived.Test.YtgdimnbdnepbgaaCG
namespace Go.Proofs.Ytgdimnbdnepbgaa
open Go.RowKit
set_option linter.unusedVariables false
set_option maxRecDepth 40000
set_option linter.unusedSimpArgs false

set_option maxHeartbeats 4000000 in
theorem divide_core (g g1 g2 g3 g4 r0 r1 r2 r3 x ox y oy X Y Z T : Nat) (w : World)
    (H1 : Hid (∀ w, Calls Try.prog 25 #[vN x, vN oy] w (Gives (vN X) w))) (H2 : Hid (∀ w, Calls Try.prog 25 #[vN y, vN ox] w (Gives (vN Y) w)))
    (H3 : Hid (∀ w, Calls Try.prog 25 #[vN ox, vN oy] w (Gives (vN Z) w))) (H4 : Hid (∀ w, Calls Try.prog 25 #[vN x, vN y] w (Gives (vN T) w)))
    (RG_0 : Hid (RAt w g [r0, r1, r2, r3])) (RX_0 : Hid (RAt w g1 [x])) (RO_0 : Hid (RAt w g2 [ox])) (RY_0 : Hid (RAt w g3 [y])) (RP_0 : Hid (RAt w g4 [oy]))
    (HN1 : Hid (g ≠ g1)) (HN2 : Hid (g ≠ g2)) (HN3 : Hid (g ≠ g3)) (HN4 : Hid (g ≠ g4)) :
    Calls Try.prog 100 #[.pointer (some ⟨g, 0, none⟩), .pointer (some ⟨g1, 0, none⟩), .pointer (some ⟨g2, 0, none⟩), .pointer (some ⟨g3, 0, none⟩), .pointer (some ⟨g4, 0, none⟩)] w (SetsR g [X, Y, Z, T] w) := by
  have HF_0 : Hid (Keeps (· = g) w w) := Lib.hid (Keeps.refl _ _)
  go_enter Try.func100, Try.ntmps100
  go_wp2_with fail
  have HLT1_0 : Hid (g < w.heap.size) := Lib.hid RG_0.out.lt
  have HLT1_1 : Hid (g1 < w.heap.size) := Lib.hid RX_0.out.lt
  have HLT1_2 : Hid (g2 < w.heap.size) := Lib.hid RO_0.out.lt
  have HLT1_3 : Hid (g3 < w.heap.size) := Lib.hid RY_0.out.lt
  have HLT1_4 : Hid (g4 < w.heap.size) := Lib.hid RP_0.out.lt
  have HLO1 : Hid (w.heap.size ≤ w.heap.size) := Lib.hid HF_0.out.size
  refine region_split (fun a' W => RAt W g [X, r1, r2, r3] ∧ RAt W g1 [x] ∧ RAt W g2 [ox] ∧ RAt W g3 [y] ∧ RAt W g4 [oy] ∧ Keeps (· = g) w W ∧ a' = ⟨#[.pointer (some ⟨g, 0, none⟩), .pointer (some ⟨g1, 0, none⟩), .pointer (some ⟨g2, 0, none⟩), .pointer (some ⟨g3, 0, none⟩), .pointer (some ⟨g4, 0, none⟩), undef, undef, undef, undef, undef, .pointer (some ⟨g, 0, none⟩), .pointer (some ⟨g1, 0, none⟩), .pointer (some ⟨g1, 0, none⟩), vN x, .pointer (some ⟨g4, 0, none⟩), .pointer (some ⟨g4, 0, none⟩), vN oy, vN X, .pointer (some ⟨g, 0, none⟩), .pointer (some ⟨g, 0, none⟩), undef, undef, undef, undef, undef, undef, undef, undef, undef, undef, undef, undef, undef, undef, undef, undef, undef, undef, undef, undef, undef, undef, undef, undef, undef, undef, undef, undef, undef, undef], []⟩) ?_ ?_
  · refine startW (fun j => j == 10) (w.heap.size) (by kernel_rfl) ?_
    obtain ⟨D1, hD1⟩ : ∃ D, D = w.drew := ⟨_, rfl⟩
    rw [← hD1]
    have HL_1 : Hid (w.heap.size ≤ D1.heap.size) := Lib.hid (by rw [hD1]; exact Nat.le_refl _)
    have RG_1 : Hid (RAt D1 g [r0, r1, r2, r3]) := Lib.hid (by rw [hD1]; exact RG_0.out)
    have RX_1 : Hid (RAt D1 g1 [x]) := Lib.hid (by rw [hD1]; exact RX_0.out)
    have RO_1 : Hid (RAt D1 g2 [ox]) := Lib.hid (by rw [hD1]; exact RO_0.out)
    have RY_1 : Hid (RAt D1 g3 [y]) := Lib.hid (by rw [hD1]; exact RY_0.out)
    have RP_1 : Hid (RAt D1 g4 [oy]) := Lib.hid (by rw [hD1]; exact RP_0.out)
    have HF_1 : Hid (Keeps (· = g) w D1) := Lib.hid (by rw [hD1]; exact drew_rel HF_0.out)
    clear hD1 RG_0 RX_0 RO_0 RY_0 RP_0 HF_0
    refine takeAE (i := 0) (oi := { dst := some 10, op := Op.move (Operand.tmp 0), type := 80, pos := "extended.go:51", after := #[], guard := none }) rfl (by kernel_rfl) (by kernel_rfl) (by kernel_rfl) (fun _ _ _ _ h => nomatch h.1) (by rfl) ?_
    refine ⟨.pointer (some ⟨g, 0, none⟩), fun w' => exec_move (.tmp 0) rfl _ rfl, ?_⟩
    simp only [Act.put, List.setIfInBounds_toArray, List.set_cons_zero, List.set_cons_succ]
    refine takeAE (i := 1) (oi := { dst := some 11, op := Op.move (Operand.tmp 1), type := 62, pos := "extended.go:51", after := #[], guard := none }) rfl (by kernel_rfl) (by kernel_rfl) (by kernel_rfl) (fun _ _ _ _ h => nomatch h.1) (by rfl) ?_
    refine ⟨.pointer (some ⟨g1, 0, none⟩), fun w' => exec_move (.tmp 1) rfl _ rfl, ?_⟩
    simp only [Act.put, List.setIfInBounds_toArray, List.set_cons_zero, List.set_cons_succ]
    refine takeAE (i := 2) (oi := { dst := some 12, op := Op.nilCheck (Operand.tmp 11), type := 0, pos := "extended.go:51", after := #[{ on := 1, ground := Ground.data }], guard := none }) rfl (by kernel_rfl) (by kernel_rfl) (by kernel_rfl) (fun _ _ _ _ h => nomatch h.1) (by rfl) ?_
    refine ⟨.pointer (some ⟨g1, 0, none⟩), fun w' => exec_nil (.tmp 11) rfl _ rfl, ?_⟩
    simp only [Act.put, List.setIfInBounds_toArray, List.set_cons_zero, List.set_cons_succ]
    refine takeT (i := 3) (oi := { dst := some 13, op := Op.load 23 (Operand.tmp 12), type := 23, pos := "extended.go:51", after := #[{ on := 2, ground := Ground.data }], guard := none }) (vN x) rfl (by kernel_rfl) (by kernel_rfl) (by kernel_rfl) (by kernel_rfl) (by kernel_rfl) (fun _ _ _ h => nomatch h.1) (by rfl) (fun w' hk => exec_loadF (.tmp 12) rfl (g1) 0 0 rfl [x] x rfl (RX_1.out.below hk HLT1_1.out) rfl) ?_
    simp only [Act.put, List.setIfInBounds_toArray, List.set_cons_zero, List.set_cons_succ]
    refine takeAE (i := 4) (oi := { dst := some 14, op := Op.move (Operand.tmp 4), type := 62, pos := "extended.go:51", after := #[], guard := none }) rfl (by kernel_rfl) (by kernel_rfl) (by kernel_rfl) (fun _ _ _ _ h => nomatch h.1) (by rfl) ?_
    refine ⟨.pointer (some ⟨g4, 0, none⟩), fun w' => exec_move (.tmp 4) rfl _ rfl, ?_⟩
    simp only [Act.put, List.setIfInBounds_toArray, List.set_cons_zero, List.set_cons_succ]
    refine takeAE (i := 5) (oi := { dst := some 15, op := Op.nilCheck (Operand.tmp 14), type := 0, pos := "extended.go:51", after := #[{ on := 4, ground := Ground.data }], guard := none }) rfl (by kernel_rfl) (by kernel_rfl) (by kernel_rfl) (fun _ _ _ _ h => nomatch h.1) (by rfl) ?_
    refine ⟨.pointer (some ⟨g4, 0, none⟩), fun w' => exec_nil (.tmp 14) rfl _ rfl, ?_⟩
    simp only [Act.put, List.setIfInBounds_toArray, List.set_cons_zero, List.set_cons_succ]
    refine takeT (i := 6) (oi := { dst := some 16, op := Op.load 23 (Operand.tmp 15), type := 23, pos := "extended.go:51", after := #[{ on := 5, ground := Ground.data }], guard := none }) (vN oy) rfl (by kernel_rfl) (by kernel_rfl) (by kernel_rfl) (by kernel_rfl) (by kernel_rfl) (fun _ _ _ h => nomatch h.1) (by rfl) (fun w' hk => exec_loadF (.tmp 15) rfl (g4) 0 0 rfl [oy] oy rfl (RP_1.out.below hk HLT1_4.out) rfl) ?_
    simp only [Act.put, List.setIfInBounds_toArray, List.set_cons_zero, List.set_cons_succ]
    refine callW (i := 7) (oi := { dst := some 17, op := Op.call { callee := Callee.value (Operand.func 25), args := #[Operand.tmp 13, Operand.tmp 16], argTypes := #[23, 23] }, type := 23, pos := "extended.go:51", after := #[{ on := 3, ground := Ground.data }, { on := 6, ground := Ground.data }], guard := none }) rfl (by kernel_rfl) (by rfl) (exec_callL 25 [.tmp 13, .tmp 16] #[23, 23] rfl [vN x, vN oy] rfl (CG25 _)) ((H1.out D1).mono ?_)
    rintro e2 W2 ⟨rfl, hb2⟩
    refine ⟨_, rfl, fun _ => hb2.mono HL_1.out, ?_⟩
    have RG_2 := Lib.hid (RG_1.out.keep hb2)
    have RX_2 := Lib.hid (RX_1.out.keep hb2)
    have RO_2 := Lib.hid (RO_1.out.keep hb2)
    have RY_2 := Lib.hid (RY_1.out.keep hb2)
    have RP_2 := Lib.hid (RP_1.out.keep hb2)
    have HF_2 : Hid (Keeps (· = g) w W2) := Lib.hid (HF_1.out.call hb2)
    have HL_2 : Hid (w.heap.size ≤ W2.heap.size) := Lib.hid (Nat.le_trans HL_1.out hb2.size)
    clear hb2 HL_1 RG_1 RX_1 RO_1 RY_1 RP_1 HF_1
    simp only [Act.put, List.setIfInBounds_toArray, List.set_cons_zero, List.set_cons_succ]
    refine takeAE (i := 8) (oi := { dst := some 18, op := Op.nilCheck (Operand.tmp 10), type := 0, pos := "extended.go:51", after := #[{ on := 0, ground := Ground.data }, { on := 0, ground := Ground.phase }, { on := 1, ground := Ground.phase }, { on := 2, ground := Ground.phase }, { on := 3, ground := Ground.phase }, { on := 4, ground := Ground.phase }, { on := 5, ground := Ground.phase }, { on := 6, ground := Ground.phase }, { on := 7, ground := Ground.phase }], guard := none }) rfl (by kernel_rfl) (by kernel_rfl) (by kernel_rfl) (fun _ _ _ _ h => nomatch h.1) (by rfl) ?_
    refine ⟨.pointer (some ⟨g, 0, none⟩), fun w' => exec_nil (.tmp 10) rfl _ rfl, ?_⟩
    simp only [Act.put, List.setIfInBounds_toArray, List.set_cons_zero, List.set_cons_succ]
    refine takeAE (i := 9) (oi := { dst := some 19, op := Op.fieldAddr 76 (Operand.tmp 18) 0, type := 0, pos := "extended.go:51", after := #[{ on := 8, ground := Ground.data }, { on := 0, ground := Ground.phase }, { on := 1, ground := Ground.phase }, { on := 2, ground := Ground.phase }, { on := 3, ground := Ground.phase }, { on := 4, ground := Ground.phase }, { on := 5, ground := Ground.phase }, { on := 6, ground := Ground.phase }, { on := 7, ground := Ground.phase }], guard := none }) rfl (by kernel_rfl) (by kernel_rfl) (by kernel_rfl) (fun _ _ _ _ h => nomatch h.1) (by rfl) ?_
    refine ⟨.pointer (some ⟨g, 0, none⟩), fun w' => exec_field 76 (.tmp 18) 0 rfl _ 0 rfl (fld76_0 _), ?_⟩
    simp only [Act.put, List.setIfInBounds_toArray, List.set_cons_zero, List.set_cons_succ]
    refine storeW_F (i := 10) (oi := { dst := none, op := Op.store 23 (Operand.tmp 19) (Operand.tmp 17), type := 0, pos := "extended.go:51", after := #[{ on := 9, ground := Ground.data }, { on := 7, ground := Ground.data }, { on := 7, ground := Ground.chain }, { on := 0, ground := Ground.phase }, { on := 1, ground := Ground.phase }, { on := 2, ground := Ground.phase }, { on := 3, ground := Ground.phase }, { on := 4, ground := Ground.phase }, { on := 5, ground := Ground.phase }, { on := 6, ground := Ground.phase }, { on := 7, ground := Ground.phase }], guard := none }) rfl (by kernel_rfl) (by rfl) (.tmp 19) (.tmp 17) rfl (g) 0 0 rfl [r0, r1, r2, r3] X rfl rfl RG_2.out (show 0 < 4 by omega) rfl ?_
    intro W3 hr3 hg3 hz3
    simp only [Act.put, List.setIfInBounds_toArray, List.set_cons_zero, List.set_cons_succ]
    have RG_3 : Hid (RAt W3 g [X, r1, r2, r3]) := Lib.hid hr3
    have RX_3 := Lib.hid (RX_2.out.grown hg3 (by have := HN1.out; simp; omega))
    have RO_3 := Lib.hid (RO_2.out.grown hg3 (by have := HN2.out; simp; omega))
    have RY_3 := Lib.hid (RY_2.out.grown hg3 (by have := HN3.out; simp; omega))
    have RP_3 := Lib.hid (RP_2.out.grown hg3 (by have := HN4.out; simp; omega))
    have HF_3 : Hid (Keeps (· = g) w W3) := Lib.hid (HF_2.out.ownrow hg3)
    have HL_3 : Hid (w.heap.size ≤ W3.heap.size) := Lib.hid (Nat.le_trans HL_2.out hg3.size)
    clear hr3 hg3 hz3 HL_2 RG_2 RX_2 RO_2 RY_2 RP_2 HF_2
    refine doneW (by kernel_rfl) ⟨rfl, ?_⟩ _
    exact ⟨RG_3.out, RX_3.out, RO_3.out, RY_3.out, RP_3.out, HF_3.out, rfl⟩
  rintro a' v4 ⟨h0, h1, h2, h3, h4, hF, rfl⟩
  have RG_4 := Lib.hid h0
  have RX_4 := Lib.hid h1
  have RO_4 := Lib.hid h2
  have RY_4 := Lib.hid h3
  have RP_4 := Lib.hid h4
  have HF_4 := Lib.hid hF
  clear h0 h1 h2 h3 h4 hF HLT1_0 HLT1_1 HLT1_2 HLT1_3 HLT1_4 HLO1 RG_0 RX_0 RO_0 RY_0 RP_0 HF_0
  go_wp2_with fail
  have HLT5_0 : Hid (g < v4.heap.size) := Lib.hid RG_4.out.lt
  have HLT5_1 : Hid (g1 < v4.heap.size) := Lib.hid RX_4.out.lt
  have HLT5_2 : Hid (g2 < v4.heap.size) := Lib.hid RO_4.out.lt
  have HLT5_3 : Hid (g3 < v4.heap.size) := Lib.hid RY_4.out.lt
  have HLT5_4 : Hid (g4 < v4.heap.size) := Lib.hid RP_4.out.lt
  have HLO5 : Hid (w.heap.size ≤ v4.heap.size) := Lib.hid HF_4.out.size
  refine region_split (fun a' W => RAt W g [X, Y, r2, r3] ∧ RAt W g1 [x] ∧ RAt W g2 [ox] ∧ RAt W g3 [y] ∧ RAt W g4 [oy] ∧ Keeps (· = g) w W ∧ a' = ⟨#[.pointer (some ⟨g, 0, none⟩), .pointer (some ⟨g1, 0, none⟩), .pointer (some ⟨g2, 0, none⟩), .pointer (some ⟨g3, 0, none⟩), .pointer (some ⟨g4, 0, none⟩), undef, undef, undef, undef, undef, .pointer (some ⟨g, 0, none⟩), .pointer (some ⟨g1, 0, none⟩), .pointer (some ⟨g1, 0, none⟩), vN x, .pointer (some ⟨g4, 0, none⟩), .pointer (some ⟨g4, 0, none⟩), vN oy, vN X, .pointer (some ⟨g, 0, none⟩), .pointer (some ⟨g, 0, none⟩), .pointer (some ⟨g, 0, none⟩), .pointer (some ⟨g3, 0, none⟩), .pointer (some ⟨g3, 0, none⟩), vN y, .pointer (some ⟨g2, 0, none⟩), .pointer (some ⟨g2, 0, none⟩), vN ox, vN Y, .pointer (some ⟨g, 0, none⟩), .pointer (some ⟨g, 32, none⟩), undef, undef, undef, undef, undef, undef, undef, undef, undef, undef, undef, undef, undef, undef, undef, undef, undef, undef, undef, undef], []⟩) ?_ ?_
  · refine startW (fun j => j == 10) (v4.heap.size) (by kernel_rfl) ?_
    obtain ⟨D5, hD5⟩ : ∃ D, D = v4.drew := ⟨_, rfl⟩
    rw [← hD5]
    have HL_5 : Hid (v4.heap.size ≤ D5.heap.size) := Lib.hid (by rw [hD5]; exact Nat.le_refl _)
    have RG_5 : Hid (RAt D5 g [X, r1, r2, r3]) := Lib.hid (by rw [hD5]; exact RG_4.out)
    have RX_5 : Hid (RAt D5 g1 [x]) := Lib.hid (by rw [hD5]; exact RX_4.out)
    have RO_5 : Hid (RAt D5 g2 [ox]) := Lib.hid (by rw [hD5]; exact RO_4.out)
    have RY_5 : Hid (RAt D5 g3 [y]) := Lib.hid (by rw [hD5]; exact RY_4.out)
    have RP_5 : Hid (RAt D5 g4 [oy]) := Lib.hid (by rw [hD5]; exact RP_4.out)
    have HF_5 : Hid (Keeps (· = g) w D5) := Lib.hid (by rw [hD5]; exact drew_rel HF_4.out)
    clear hD5 RG_4 RX_4 RO_4 RY_4 RP_4 HF_4
    refine takeAE (i := 0) (oi := { dst := some 20, op := Op.move (Operand.tmp 0), type := 80, pos := "extended.go:52", after := #[], guard := none }) rfl (by kernel_rfl) (by kernel_rfl) (by kernel_rfl) (fun _ _ _ _ h => nomatch h.1) (by rfl) ?_
    refine ⟨.pointer (some ⟨g, 0, none⟩), fun w' => exec_move (.tmp 0) rfl _ rfl, ?_⟩
    simp only [Act.put, List.setIfInBounds_toArray, List.set_cons_zero, List.set_cons_succ]
    refine takeAE (i := 1) (oi := { dst := some 21, op := Op.move (Operand.tmp 3), type := 62, pos := "extended.go:52", after := #[], guard := none }) rfl (by kernel_rfl) (by kernel_rfl) (by kernel_rfl) (fun _ _ _ _ h => nomatch h.1) (by rfl) ?_
    refine ⟨.pointer (some ⟨g3, 0, none⟩), fun w' => exec_move (.tmp 3) rfl _ rfl, ?_⟩
    simp only [Act.put, List.setIfInBounds_toArray, List.set_cons_zero, List.set_cons_succ]
    refine takeAE (i := 2) (oi := { dst := some 22, op := Op.nilCheck (Operand.tmp 21), type := 0, pos := "extended.go:52", after := #[{ on := 1, ground := Ground.data }], guard := none }) rfl (by kernel_rfl) (by kernel_rfl) (by kernel_rfl) (fun _ _ _ _ h => nomatch h.1) (by rfl) ?_
    refine ⟨.pointer (some ⟨g3, 0, none⟩), fun w' => exec_nil (.tmp 21) rfl _ rfl, ?_⟩
    simp only [Act.put, List.setIfInBounds_toArray, List.set_cons_zero, List.set_cons_succ]
    refine takeT (i := 3) (oi := { dst := some 23, op := Op.load 23 (Operand.tmp 22), type := 23, pos := "extended.go:52", after := #[{ on := 2, ground := Ground.data }], guard := none }) (vN y) rfl (by kernel_rfl) (by kernel_rfl) (by kernel_rfl) (by kernel_rfl) (by kernel_rfl) (fun _ _ _ h => nomatch h.1) (by rfl) (fun w' hk => exec_loadF (.tmp 22) rfl (g3) 0 0 rfl [y] y rfl (RY_5.out.below hk HLT5_3.out) rfl) ?_
    simp only [Act.put, List.setIfInBounds_toArray, List.set_cons_zero, List.set_cons_succ]
    refine takeAE (i := 4) (oi := { dst := some 24, op := Op.move (Operand.tmp 2), type := 62, pos := "extended.go:52", after := #[], guard := none }) rfl (by kernel_rfl) (by kernel_rfl) (by kernel_rfl) (fun _ _ _ _ h => nomatch h.1) (by rfl) ?_
    refine ⟨.pointer (some ⟨g2, 0, none⟩), fun w' => exec_move (.tmp 2) rfl _ rfl, ?_⟩
    simp only [Act.put, List.setIfInBounds_toArray, List.set_cons_zero, List.set_cons_succ]
    refine takeAE (i := 5) (oi := { dst := some 25, op := Op.nilCheck (Operand.tmp 24), type := 0, pos := "extended.go:52", after := #[{ on := 4, ground := Ground.data }], guard := none }) rfl (by kernel_rfl) (by kernel_rfl) (by kernel_rfl) (fun _ _ _ _ h => nomatch h.1) (by rfl) ?_
    refine ⟨.pointer (some ⟨g2, 0, none⟩), fun w' => exec_nil (.tmp 24) rfl _ rfl, ?_⟩
    simp only [Act.put, List.setIfInBounds_toArray, List.set_cons_zero, List.set_cons_succ]
    refine takeT (i := 6) (oi := { dst := some 26, op := Op.load 23 (Operand.tmp 25), type := 23, pos := "extended.go:52", after := #[{ on := 5, ground := Ground.data }], guard := none }) (vN ox) rfl (by kernel_rfl) (by kernel_rfl) (by kernel_rfl) (by kernel_rfl) (by kernel_rfl) (fun _ _ _ h => nomatch h.1) (by rfl) (fun w' hk => exec_loadF (.tmp 25) rfl (g2) 0 0 rfl [ox] ox rfl (RO_5.out.below hk HLT5_2.out) rfl) ?_
    simp only [Act.put, List.setIfInBounds_toArray, List.set_cons_zero, List.set_cons_succ]
    refine callW (i := 7) (oi := { dst := some 27, op := Op.call { callee := Callee.value (Operand.func 25), args := #[Operand.tmp 23, Operand.tmp 26], argTypes := #[23, 23] }, type := 23, pos := "extended.go:52", after := #[{ on := 3, ground := Ground.data }, { on := 6, ground := Ground.data }], guard := none }) rfl (by kernel_rfl) (by rfl) (exec_callL 25 [.tmp 23, .tmp 26] #[23, 23] rfl [vN y, vN ox] rfl (CG25 _)) ((H2.out D5).mono ?_)
    rintro e6 W6 ⟨rfl, hb6⟩
    refine ⟨_, rfl, fun _ => hb6.mono HL_5.out, ?_⟩
    have RG_6 := Lib.hid (RG_5.out.keep hb6)
    have RX_6 := Lib.hid (RX_5.out.keep hb6)
    have RO_6 := Lib.hid (RO_5.out.keep hb6)
    have RY_6 := Lib.hid (RY_5.out.keep hb6)
    have RP_6 := Lib.hid (RP_5.out.keep hb6)
    have HF_6 : Hid (Keeps (· = g) w W6) := Lib.hid (HF_5.out.call hb6)
    have HL_6 : Hid (v4.heap.size ≤ W6.heap.size) := Lib.hid (Nat.le_trans HL_5.out hb6.size)
    clear hb6 HL_5 RG_5 RX_5 RO_5 RY_5 RP_5 HF_5
    simp only [Act.put, List.setIfInBounds_toArray, List.set_cons_zero, List.set_cons_succ]
    refine takeAE (i := 8) (oi := { dst := some 28, op := Op.nilCheck (Operand.tmp 20), type := 0, pos := "extended.go:52", after := #[{ on := 0, ground := Ground.data }, { on := 0, ground := Ground.phase }, { on := 1, ground := Ground.phase }, { on := 2, ground := Ground.phase }, { on := 3, ground := Ground.phase }, { on := 4, ground := Ground.phase }, { on := 5, ground := Ground.phase }, { on := 6, ground := Ground.phase }, { on := 7, ground := Ground.phase }], guard := none }) rfl (by kernel_rfl) (by kernel_rfl) (by kernel_rfl) (fun _ _ _ _ h => nomatch h.1) (by rfl) ?_
    refine ⟨.pointer (some ⟨g, 0, none⟩), fun w' => exec_nil (.tmp 20) rfl _ rfl, ?_⟩
    simp only [Act.put, List.setIfInBounds_toArray, List.set_cons_zero, List.set_cons_succ]
    refine takeAE (i := 9) (oi := { dst := some 29, op := Op.fieldAddr 76 (Operand.tmp 28) 1, type := 0, pos := "extended.go:52", after := #[{ on := 8, ground := Ground.data }, { on := 0, ground := Ground.phase }, { on := 1, ground := Ground.phase }, { on := 2, ground := Ground.phase }, { on := 3, ground := Ground.phase }, { on := 4, ground := Ground.phase }, { on := 5, ground := Ground.phase }, { on := 6, ground := Ground.phase }, { on := 7, ground := Ground.phase }], guard := none }) rfl (by kernel_rfl) (by kernel_rfl) (by kernel_rfl) (fun _ _ _ _ h => nomatch h.1) (by rfl) ?_
    refine ⟨.pointer (some ⟨g, 32, none⟩), fun w' => exec_field 76 (.tmp 28) 1 rfl _ 32 rfl (fld76_1 _), ?_⟩
    simp only [Act.put, List.setIfInBounds_toArray, List.set_cons_zero, List.set_cons_succ]
    refine storeW_F (i := 10) (oi := { dst := none, op := Op.store 23 (Operand.tmp 29) (Operand.tmp 27), type := 0, pos := "extended.go:52", after := #[{ on := 9, ground := Ground.data }, { on := 7, ground := Ground.data }, { on := 7, ground := Ground.chain }, { on := 0, ground := Ground.phase }, { on := 1, ground := Ground.phase }, { on := 2, ground := Ground.phase }, { on := 3, ground := Ground.phase }, { on := 4, ground := Ground.phase }, { on := 5, ground := Ground.phase }, { on := 6, ground := Ground.phase }, { on := 7, ground := Ground.phase }], guard := none }) rfl (by kernel_rfl) (by rfl) (.tmp 29) (.tmp 27) rfl (g) 1 32 rfl [X, r1, r2, r3] Y rfl rfl RG_6.out (show 1 < 4 by omega) rfl ?_
    intro W7 hr7 hg7 hz7
    simp only [Act.put, List.setIfInBounds_toArray, List.set_cons_zero, List.set_cons_succ]
    have RG_7 : Hid (RAt W7 g [X, Y, r2, r3]) := Lib.hid hr7
    have RX_7 := Lib.hid (RX_6.out.grown hg7 (by have := HN1.out; simp; omega))
    have RO_7 := Lib.hid (RO_6.out.grown hg7 (by have := HN2.out; simp; omega))
    have RY_7 := Lib.hid (RY_6.out.grown hg7 (by have := HN3.out; simp; omega))
    have RP_7 := Lib.hid (RP_6.out.grown hg7 (by have := HN4.out; simp; omega))
    have HF_7 : Hid (Keeps (· = g) w W7) := Lib.hid (HF_6.out.ownrow hg7)
    have HL_7 : Hid (v4.heap.size ≤ W7.heap.size) := Lib.hid (Nat.le_trans HL_6.out hg7.size)
    clear hr7 hg7 hz7 HL_6 RG_6 RX_6 RO_6 RY_6 RP_6 HF_6
    refine doneW (by kernel_rfl) ⟨rfl, ?_⟩ _
    exact ⟨RG_7.out, RX_7.out, RO_7.out, RY_7.out, RP_7.out, HF_7.out, rfl⟩
  rintro a' v8 ⟨h0, h1, h2, h3, h4, hF, rfl⟩
  have RG_8 := Lib.hid h0
  have RX_8 := Lib.hid h1
  have RO_8 := Lib.hid h2
  have RY_8 := Lib.hid h3
  have RP_8 := Lib.hid h4
  have HF_8 := Lib.hid hF
  clear h0 h1 h2 h3 h4 hF HLT5_0 HLT5_1 HLT5_2 HLT5_3 HLT5_4 HLO5 RG_4 RX_4 RO_4 RY_4 RP_4 HF_4
  go_wp2_with fail
  have HLT9_0 : Hid (g < v8.heap.size) := Lib.hid RG_8.out.lt
  have HLT9_1 : Hid (g1 < v8.heap.size) := Lib.hid RX_8.out.lt
  have HLT9_2 : Hid (g2 < v8.heap.size) := Lib.hid RO_8.out.lt
  have HLT9_3 : Hid (g3 < v8.heap.size) := Lib.hid RY_8.out.lt
  have HLT9_4 : Hid (g4 < v8.heap.size) := Lib.hid RP_8.out.lt
  have HLO9 : Hid (w.heap.size ≤ v8.heap.size) := Lib.hid HF_8.out.size
  refine region_split (fun a' W => RAt W g [X, Y, Z, r3] ∧ RAt W g1 [x] ∧ RAt W g2 [ox] ∧ RAt W g3 [y] ∧ RAt W g4 [oy] ∧ Keeps (· = g) w W ∧ a' = ⟨#[.pointer (some ⟨g, 0, none⟩), .pointer (some ⟨g1, 0, none⟩), .pointer (some ⟨g2, 0, none⟩), .pointer (some ⟨g3, 0, none⟩), .pointer (some ⟨g4, 0, none⟩), undef, undef, undef, undef, undef, .pointer (some ⟨g, 0, none⟩), .pointer (some ⟨g1, 0, none⟩), .pointer (some ⟨g1, 0, none⟩), vN x, .pointer (some ⟨g4, 0, none⟩), .pointer (some ⟨g4, 0, none⟩), vN oy, vN X, .pointer (some ⟨g, 0, none⟩), .pointer (some ⟨g, 0, none⟩), .pointer (some ⟨g, 0, none⟩), .pointer (some ⟨g3, 0, none⟩), .pointer (some ⟨g3, 0, none⟩), vN y, .pointer (some ⟨g2, 0, none⟩), .pointer (some ⟨g2, 0, none⟩), vN ox, vN Y, .pointer (some ⟨g, 0, none⟩), .pointer (some ⟨g, 32, none⟩), .pointer (some ⟨g, 0, none⟩), .pointer (some ⟨g2, 0, none⟩), .pointer (some ⟨g2, 0, none⟩), vN ox, .pointer (some ⟨g4, 0, none⟩), .pointer (some ⟨g4, 0, none⟩), vN oy, vN Z, .pointer (some ⟨g, 0, none⟩), .pointer (some ⟨g, 64, none⟩), undef, undef, undef, undef, undef, undef, undef, undef, undef, undef], []⟩) ?_ ?_
  · refine startW (fun j => j == 10) (v8.heap.size) (by kernel_rfl) ?_
    obtain ⟨D9, hD9⟩ : ∃ D, D = v8.drew := ⟨_, rfl⟩
    rw [← hD9]
    have HL_9 : Hid (v8.heap.size ≤ D9.heap.size) := Lib.hid (by rw [hD9]; exact Nat.le_refl _)
    have RG_9 : Hid (RAt D9 g [X, Y, r2, r3]) := Lib.hid (by rw [hD9]; exact RG_8.out)
    have RX_9 : Hid (RAt D9 g1 [x]) := Lib.hid (by rw [hD9]; exact RX_8.out)
    have RO_9 : Hid (RAt D9 g2 [ox]) := Lib.hid (by rw [hD9]; exact RO_8.out)
    have RY_9 : Hid (RAt D9 g3 [y]) := Lib.hid (by rw [hD9]; exact RY_8.out)
    have RP_9 : Hid (RAt D9 g4 [oy]) := Lib.hid (by rw [hD9]; exact RP_8.out)
    have HF_9 : Hid (Keeps (· = g) w D9) := Lib.hid (by rw [hD9]; exact drew_rel HF_8.out)
    clear hD9 RG_8 RX_8 RO_8 RY_8 RP_8 HF_8
    refine takeAE (i := 0) (oi := { dst := some 30, op := Op.move (Operand.tmp 0), type := 80, pos := "extended.go:53", after := #[], guard := none }) rfl (by kernel_rfl) (by kernel_rfl) (by kernel_rfl) (fun _ _ _ _ h => nomatch h.1) (by rfl) ?_
    refine ⟨.pointer (some ⟨g, 0, none⟩), fun w' => exec_move (.tmp 0) rfl _ rfl, ?_⟩
    simp only [Act.put, List.setIfInBounds_toArray, List.set_cons_zero, List.set_cons_succ]
    refine takeAE (i := 1) (oi := { dst := some 31, op := Op.move (Operand.tmp 2), type := 62, pos := "extended.go:53", after := #[], guard := none }) rfl (by kernel_rfl) (by kernel_rfl) (by kernel_rfl) (fun _ _ _ _ h => nomatch h.1) (by rfl) ?_
    refine ⟨.pointer (some ⟨g2, 0, none⟩), fun w' => exec_move (.tmp 2) rfl _ rfl, ?_⟩
    simp only [Act.put, List.setIfInBounds_toArray, List.set_cons_zero, List.set_cons_succ]
    refine takeAE (i := 2) (oi := { dst := some 32, op := Op.nilCheck (Operand.tmp 31), type := 0, pos := "extended.go:53", after := #[{ on := 1, ground := Ground.data }], guard := none }) rfl (by kernel_rfl) (by kernel_rfl) (by kernel_rfl) (fun _ _ _ _ h => nomatch h.1) (by rfl) ?_
    refine ⟨.pointer (some ⟨g2, 0, none⟩), fun w' => exec_nil (.tmp 31) rfl _ rfl, ?_⟩
    simp only [Act.put, List.setIfInBounds_toArray, List.set_cons_zero, List.set_cons_succ]
    refine takeT (i := 3) (oi := { dst := some 33, op := Op.load 23 (Operand.tmp 32), type := 23, pos := "extended.go:53", after := #[{ on := 2, ground := Ground.data }], guard := none }) (vN ox) rfl (by kernel_rfl) (by kernel_rfl) (by kernel_rfl) (by kernel_rfl) (by kernel_rfl) (fun _ _ _ h => nomatch h.1) (by rfl) (fun w' hk => exec_loadF (.tmp 32) rfl (g2) 0 0 rfl [ox] ox rfl (RO_9.out.below hk HLT9_2.out) rfl) ?_
    simp only [Act.put, List.setIfInBounds_toArray, List.set_cons_zero, List.set_cons_succ]
    refine takeAE (i := 4) (oi := { dst := some 34, op := Op.move (Operand.tmp 4), type := 62, pos := "extended.go:53", after := #[], guard := none }) rfl (by kernel_rfl) (by kernel_rfl) (by kernel_rfl) (fun _ _ _ _ h => nomatch h.1) (by rfl) ?_
    refine ⟨.pointer (some ⟨g4, 0, none⟩), fun w' => exec_move (.tmp 4) rfl _ rfl, ?_⟩
    simp only [Act.put, List.setIfInBounds_toArray, List.set_cons_zero, List.set_cons_succ]
    refine takeAE (i := 5) (oi := { dst := some 35, op := Op.nilCheck (Operand.tmp 34), type := 0, pos := "extended.go:53", after := #[{ on := 4, ground := Ground.data }], guard := none }) rfl (by kernel_rfl) (by kernel_rfl) (by kernel_rfl) (fun _ _ _ _ h => nomatch h.1) (by rfl) ?_
    refine ⟨.pointer (some ⟨g4, 0, none⟩), fun w' => exec_nil (.tmp 34) rfl _ rfl, ?_⟩
    simp only [Act.put, List.setIfInBounds_toArray, List.set_cons_zero, List.set_cons_succ]
    refine takeT (i := 6) (oi := { dst := some 36, op := Op.load 23 (Operand.tmp 35), type := 23, pos := "extended.go:53", after := #[{ on := 5, ground := Ground.data }], guard := none }) (vN oy) rfl (by kernel_rfl) (by kernel_rfl) (by kernel_rfl) (by kernel_rfl) (by kernel_rfl) (fun _ _ _ h => nomatch h.1) (by rfl) (fun w' hk => exec_loadF (.tmp 35) rfl (g4) 0 0 rfl [oy] oy rfl (RP_9.out.below hk HLT9_4.out) rfl) ?_
    simp only [Act.put, List.setIfInBounds_toArray, List.set_cons_zero, List.set_cons_succ]
    refine callW (i := 7) (oi := { dst := some 37, op := Op.call { callee := Callee.value (Operand.func 25), args := #[Operand.tmp 33, Operand.tmp 36], argTypes := #[23, 23] }, type := 23, pos := "extended.go:53", after := #[{ on := 3, ground := Ground.data }, { on := 6, ground := Ground.data }], guard := none }) rfl (by kernel_rfl) (by rfl) (exec_callL 25 [.tmp 33, .tmp 36] #[23, 23] rfl [vN ox, vN oy] rfl (CG25 _)) ((H3.out D9).mono ?_)
    rintro e10 W10 ⟨rfl, hb10⟩
    refine ⟨_, rfl, fun _ => hb10.mono HL_9.out, ?_⟩
    have RG_10 := Lib.hid (RG_9.out.keep hb10)
    have RX_10 := Lib.hid (RX_9.out.keep hb10)
    have RO_10 := Lib.hid (RO_9.out.keep hb10)
    have RY_10 := Lib.hid (RY_9.out.keep hb10)
    have RP_10 := Lib.hid (RP_9.out.keep hb10)
    have HF_10 : Hid (Keeps (· = g) w W10) := Lib.hid (HF_9.out.call hb10)
    have HL_10 : Hid (v8.heap.size ≤ W10.heap.size) := Lib.hid (Nat.le_trans HL_9.out hb10.size)
    clear hb10 HL_9 RG_9 RX_9 RO_9 RY_9 RP_9 HF_9
    simp only [Act.put, List.setIfInBounds_toArray, List.set_cons_zero, List.set_cons_succ]
    refine takeAE (i := 8) (oi := { dst := some 38, op := Op.nilCheck (Operand.tmp 30), type := 0, pos := "extended.go:53", after := #[{ on := 0, ground := Ground.data }, { on := 0, ground := Ground.phase }, { on := 1, ground := Ground.phase }, { on := 2, ground := Ground.phase }, { on := 3, ground := Ground.phase }, { on := 4, ground := Ground.phase }, { on := 5, ground := Ground.phase }, { on := 6, ground := Ground.phase }, { on := 7, ground := Ground.phase }], guard := none }) rfl (by kernel_rfl) (by kernel_rfl) (by kernel_rfl) (fun _ _ _ _ h => nomatch h.1) (by rfl) ?_
    refine ⟨.pointer (some ⟨g, 0, none⟩), fun w' => exec_nil (.tmp 30) rfl _ rfl, ?_⟩
    simp only [Act.put, List.setIfInBounds_toArray, List.set_cons_zero, List.set_cons_succ]
    refine takeAE (i := 9) (oi := { dst := some 39, op := Op.fieldAddr 76 (Operand.tmp 38) 2, type := 0, pos := "extended.go:53", after := #[{ on := 8, ground := Ground.data }, { on := 0, ground := Ground.phase }, { on := 1, ground := Ground.phase }, { on := 2, ground := Ground.phase }, { on := 3, ground := Ground.phase }, { on := 4, ground := Ground.phase }, { on := 5, ground := Ground.phase }, { on := 6, ground := Ground.phase }, { on := 7, ground := Ground.phase }], guard := none }) rfl (by kernel_rfl) (by kernel_rfl) (by kernel_rfl) (fun _ _ _ _ h => nomatch h.1) (by rfl) ?_
    refine ⟨.pointer (some ⟨g, 64, none⟩), fun w' => exec_field 76 (.tmp 38) 2 rfl _ 64 rfl (fld76_2 _), ?_⟩
    simp only [Act.put, List.setIfInBounds_toArray, List.set_cons_zero, List.set_cons_succ]
    refine storeW_F (i := 10) (oi := { dst := none, op := Op.store 23 (Operand.tmp 39) (Operand.tmp 37), type := 0, pos := "extended.go:53", after := #[{ on := 9, ground := Ground.data }, { on := 7, ground := Ground.data }, { on := 7, ground := Ground.chain }, { on := 0, ground := Ground.phase }, { on := 1, ground := Ground.phase }, { on := 2, ground := Ground.phase }, { on := 3, ground := Ground.phase }, { on := 4, ground := Ground.phase }, { on := 5, ground := Ground.phase }, { on := 6, ground := Ground.phase }, { on := 7, ground := Ground.phase }], guard := none }) rfl (by kernel_rfl) (by rfl) (.tmp 39) (.tmp 37) rfl (g) 2 64 rfl [X, Y, r2, r3] Z rfl rfl RG_10.out (show 2 < 4 by omega) rfl ?_
    intro W11 hr11 hg11 hz11
    simp only [Act.put, List.setIfInBounds_toArray, List.set_cons_zero, List.set_cons_succ]
    have RG_11 : Hid (RAt W11 g [X, Y, Z, r3]) := Lib.hid hr11
    have RX_11 := Lib.hid (RX_10.out.grown hg11 (by have := HN1.out; simp; omega))
    have RO_11 := Lib.hid (RO_10.out.grown hg11 (by have := HN2.out; simp; omega))
    have RY_11 := Lib.hid (RY_10.out.grown hg11 (by have := HN3.out; simp; omega))
    have RP_11 := Lib.hid (RP_10.out.grown hg11 (by have := HN4.out; simp; omega))
    have HF_11 : Hid (Keeps (· = g) w W11) := Lib.hid (HF_10.out.ownrow hg11)
    have HL_11 : Hid (v8.heap.size ≤ W11.heap.size) := Lib.hid (Nat.le_trans HL_10.out hg11.size)
    clear hr11 hg11 hz11 HL_10 RG_10 RX_10 RO_10 RY_10 RP_10 HF_10
    refine doneW (by kernel_rfl) ⟨rfl, ?_⟩ _
    exact ⟨RG_11.out, RX_11.out, RO_11.out, RY_11.out, RP_11.out, HF_11.out, rfl⟩
  rintro a' v12 ⟨h0, h1, h2, h3, h4, hF, rfl⟩
  have RG_12 := Lib.hid h0
  have RX_12 := Lib.hid h1
  have RO_12 := Lib.hid h2
  have RY_12 := Lib.hid h3
  have RP_12 := Lib.hid h4
  have HF_12 := Lib.hid hF
  clear h0 h1 h2 h3 h4 hF HLT9_0 HLT9_1 HLT9_2 HLT9_3 HLT9_4 HLO9 RG_8 RX_8 RO_8 RY_8 RP_8 HF_8
  go_wp2_with fail
  have HLT13_0 : Hid (g < v12.heap.size) := Lib.hid RG_12.out.lt
  have HLT13_1 : Hid (g1 < v12.heap.size) := Lib.hid RX_12.out.lt
  have HLT13_2 : Hid (g2 < v12.heap.size) := Lib.hid RO_12.out.lt
  have HLT13_3 : Hid (g3 < v12.heap.size) := Lib.hid RY_12.out.lt
  have HLT13_4 : Hid (g4 < v12.heap.size) := Lib.hid RP_12.out.lt
  have HLO13 : Hid (w.heap.size ≤ v12.heap.size) := Lib.hid HF_12.out.size
  refine region_split (fun a' W => RAt W g [X, Y, Z, T] ∧ RAt W g1 [x] ∧ RAt W g2 [ox] ∧ RAt W g3 [y] ∧ RAt W g4 [oy] ∧ Keeps (· = g) w W ∧ a' = ⟨#[.pointer (some ⟨g, 0, none⟩), .pointer (some ⟨g1, 0, none⟩), .pointer (some ⟨g2, 0, none⟩), .pointer (some ⟨g3, 0, none⟩), .pointer (some ⟨g4, 0, none⟩), undef, undef, undef, undef, undef, .pointer (some ⟨g, 0, none⟩), .pointer (some ⟨g1, 0, none⟩), .pointer (some ⟨g1, 0, none⟩), vN x, .pointer (some ⟨g4, 0, none⟩), .pointer (some ⟨g4, 0, none⟩), vN oy, vN X, .pointer (some ⟨g, 0, none⟩), .pointer (some ⟨g, 0, none⟩), .pointer (some ⟨g, 0, none⟩), .pointer (some ⟨g3, 0, none⟩), .pointer (some ⟨g3, 0, none⟩), vN y, .pointer (some ⟨g2, 0, none⟩), .pointer (some ⟨g2, 0, none⟩), vN ox, vN Y, .pointer (some ⟨g, 0, none⟩), .pointer (some ⟨g, 32, none⟩), .pointer (some ⟨g, 0, none⟩), .pointer (some ⟨g2, 0, none⟩), .pointer (some ⟨g2, 0, none⟩), vN ox, .pointer (some ⟨g4, 0, none⟩), .pointer (some ⟨g4, 0, none⟩), vN oy, vN Z, .pointer (some ⟨g, 0, none⟩), .pointer (some ⟨g, 64, none⟩), .pointer (some ⟨g, 0, none⟩), .pointer (some ⟨g1, 0, none⟩), .pointer (some ⟨g1, 0, none⟩), vN x, .pointer (some ⟨g3, 0, none⟩), .pointer (some ⟨g3, 0, none⟩), vN y, vN T, .pointer (some ⟨g, 0, none⟩), .pointer (some ⟨g, 96, none⟩)], []⟩) ?_ ?_
  · refine startW (fun j => j == 10) (v12.heap.size) (by kernel_rfl) ?_
    obtain ⟨D13, hD13⟩ : ∃ D, D = v12.drew := ⟨_, rfl⟩
    rw [← hD13]
    have HL_13 : Hid (v12.heap.size ≤ D13.heap.size) := Lib.hid (by rw [hD13]; exact Nat.le_refl _)
    have RG_13 : Hid (RAt D13 g [X, Y, Z, r3]) := Lib.hid (by rw [hD13]; exact RG_12.out)
    have RX_13 : Hid (RAt D13 g1 [x]) := Lib.hid (by rw [hD13]; exact RX_12.out)
    have RO_13 : Hid (RAt D13 g2 [ox]) := Lib.hid (by rw [hD13]; exact RO_12.out)
    have RY_13 : Hid (RAt D13 g3 [y]) := Lib.hid (by rw [hD13]; exact RY_12.out)
    have RP_13 : Hid (RAt D13 g4 [oy]) := Lib.hid (by rw [hD13]; exact RP_12.out)
    have HF_13 : Hid (Keeps (· = g) w D13) := Lib.hid (by rw [hD13]; exact drew_rel HF_12.out)
    clear hD13 RG_12 RX_12 RO_12 RY_12 RP_12 HF_12
    refine takeAE (i := 0) (oi := { dst := some 40, op := Op.move (Operand.tmp 0), type := 80, pos := "extended.go:54", after := #[], guard := none }) rfl (by kernel_rfl) (by kernel_rfl) (by kernel_rfl) (fun _ _ _ _ h => nomatch h.1) (by rfl) ?_
    refine ⟨.pointer (some ⟨g, 0, none⟩), fun w' => exec_move (.tmp 0) rfl _ rfl, ?_⟩
    simp only [Act.put, List.setIfInBounds_toArray, List.set_cons_zero, List.set_cons_succ]
    refine takeAE (i := 1) (oi := { dst := some 41, op := Op.move (Operand.tmp 1), type := 62, pos := "extended.go:54", after := #[], guard := none }) rfl (by kernel_rfl) (by kernel_rfl) (by kernel_rfl) (fun _ _ _ _ h => nomatch h.1) (by rfl) ?_
    refine ⟨.pointer (some ⟨g1, 0, none⟩), fun w' => exec_move (.tmp 1) rfl _ rfl, ?_⟩
    simp only [Act.put, List.setIfInBounds_toArray, List.set_cons_zero, List.set_cons_succ]
    refine takeAE (i := 2) (oi := { dst := some 42, op := Op.nilCheck (Operand.tmp 41), type := 0, pos := "extended.go:54", after := #[{ on := 1, ground := Ground.data }], guard := none }) rfl (by kernel_rfl) (by kernel_rfl) (by kernel_rfl) (fun _ _ _ _ h => nomatch h.1) (by rfl) ?_
    refine ⟨.pointer (some ⟨g1, 0, none⟩), fun w' => exec_nil (.tmp 41) rfl _ rfl, ?_⟩
    simp only [Act.put, List.setIfInBounds_toArray, List.set_cons_zero, List.set_cons_succ]
    refine takeT (i := 3) (oi := { dst := some 43, op := Op.load 23 (Operand.tmp 42), type := 23, pos := "extended.go:54", after := #[{ on := 2, ground := Ground.data }], guard := none }) (vN x) rfl (by kernel_rfl) (by kernel_rfl) (by kernel_rfl) (by kernel_rfl) (by kernel_rfl) (fun _ _ _ h => nomatch h.1) (by rfl) (fun w' hk => exec_loadF (.tmp 42) rfl (g1) 0 0 rfl [x] x rfl (RX_13.out.below hk HLT13_1.out) rfl) ?_
    simp only [Act.put, List.setIfInBounds_toArray, List.set_cons_zero, List.set_cons_succ]
    refine takeAE (i := 4) (oi := { dst := some 44, op := Op.move (Operand.tmp 3), type := 62, pos := "extended.go:54", after := #[], guard := none }) rfl (by kernel_rfl) (by kernel_rfl) (by kernel_rfl) (fun _ _ _ _ h => nomatch h.1) (by rfl) ?_
    refine ⟨.pointer (some ⟨g3, 0, none⟩), fun w' => exec_move (.tmp 3) rfl _ rfl, ?_⟩
    simp only [Act.put, List.setIfInBounds_toArray, List.set_cons_zero, List.set_cons_succ]
    refine takeAE (i := 5) (oi := { dst := some 45, op := Op.nilCheck (Operand.tmp 44), type := 0, pos := "extended.go:54", after := #[{ on := 4, ground := Ground.data }], guard := none }) rfl (by kernel_rfl) (by kernel_rfl) (by kernel_rfl) (fun _ _ _ _ h => nomatch h.1) (by rfl) ?_
    refine ⟨.pointer (some ⟨g3, 0, none⟩), fun w' => exec_nil (.tmp 44) rfl _ rfl, ?_⟩
    simp only [Act.put, List.setIfInBounds_toArray, List.set_cons_zero, List.set_cons_succ]
    refine takeT (i := 6) (oi := { dst := some 46, op := Op.load 23 (Operand.tmp 45), type := 23, pos := "extended.go:54", after := #[{ on := 5, ground := Ground.data }], guard := none }) (vN y) rfl (by kernel_rfl) (by kernel_rfl) (by kernel_rfl) (by kernel_rfl) (by kernel_rfl) (fun _ _ _ h => nomatch h.1) (by rfl) (fun w' hk => exec_loadF (.tmp 45) rfl (g3) 0 0 rfl [y] y rfl (RY_13.out.below hk HLT13_3.out) rfl) ?_
    simp only [Act.put, List.setIfInBounds_toArray, List.set_cons_zero, List.set_cons_succ]
    refine callW (i := 7) (oi := { dst := some 47, op := Op.call { callee := Callee.value (Operand.func 25), args := #[Operand.tmp 43, Operand.tmp 46], argTypes := #[23, 23] }, type := 23, pos := "extended.go:54", after := #[{ on := 3, ground := Ground.data }, { on := 6, ground := Ground.data }], guard := none }) rfl (by kernel_rfl) (by rfl) (exec_callL 25 [.tmp 43, .tmp 46] #[23, 23] rfl [vN x, vN y] rfl (CG25 _)) ((H4.out D13).mono ?_)
    rintro e14 W14 ⟨rfl, hb14⟩
    refine ⟨_, rfl, fun _ => hb14.mono HL_13.out, ?_⟩
    have RG_14 := Lib.hid (RG_13.out.keep hb14)
    have RX_14 := Lib.hid (RX_13.out.keep hb14)
    have RO_14 := Lib.hid (RO_13.out.keep hb14)
    have RY_14 := Lib.hid (RY_13.out.keep hb14)
    have RP_14 := Lib.hid (RP_13.out.keep hb14)
    have HF_14 : Hid (Keeps (· = g) w W14) := Lib.hid (HF_13.out.call hb14)
    have HL_14 : Hid (v12.heap.size ≤ W14.heap.size) := Lib.hid (Nat.le_trans HL_13.out hb14.size)
    clear hb14 HL_13 RG_13 RX_13 RO_13 RY_13 RP_13 HF_13
    simp only [Act.put, List.setIfInBounds_toArray, List.set_cons_zero, List.set_cons_succ]
    refine takeAE (i := 8) (oi := { dst := some 48, op := Op.nilCheck (Operand.tmp 40), type := 0, pos := "extended.go:54", after := #[{ on := 0, ground := Ground.data }, { on := 0, ground := Ground.phase }, { on := 1, ground := Ground.phase }, { on := 2, ground := Ground.phase }, { on := 3, ground := Ground.phase }, { on := 4, ground := Ground.phase }, { on := 5, ground := Ground.phase }, { on := 6, ground := Ground.phase }, { on := 7, ground := Ground.phase }], guard := none }) rfl (by kernel_rfl) (by kernel_rfl) (by kernel_rfl) (fun _ _ _ _ h => nomatch h.1) (by rfl) ?_
    refine ⟨.pointer (some ⟨g, 0, none⟩), fun w' => exec_nil (.tmp 40) rfl _ rfl, ?_⟩
    simp only [Act.put, List.setIfInBounds_toArray, List.set_cons_zero, List.set_cons_succ]
    refine takeAE (i := 9) (oi := { dst := some 49, op := Op.fieldAddr 76 (Operand.tmp 48) 3, type := 0, pos := "extended.go:54", after := #[{ on := 8, ground := Ground.data }, { on := 0, ground := Ground.phase }, { on := 1, ground := Ground.phase }, { on := 2, ground := Ground.phase }, { on := 3, ground := Ground.phase }, { on := 4, ground := Ground.phase }, { on := 5, ground := Ground.phase }, { on := 6, ground := Ground.phase }, { on := 7, ground := Ground.phase }], guard := none }) rfl (by kernel_rfl) (by kernel_rfl) (by kernel_rfl) (fun _ _ _ _ h => nomatch h.1) (by rfl) ?_
    refine ⟨.pointer (some ⟨g, 96, none⟩), fun w' => exec_field 76 (.tmp 48) 3 rfl _ 96 rfl (fld76_3 _), ?_⟩
    simp only [Act.put, List.setIfInBounds_toArray, List.set_cons_zero, List.set_cons_succ]
    refine storeW_F (i := 10) (oi := { dst := none, op := Op.store 23 (Operand.tmp 49) (Operand.tmp 47), type := 0, pos := "extended.go:54", after := #[{ on := 9, ground := Ground.data }, { on := 7, ground := Ground.data }, { on := 7, ground := Ground.chain }, { on := 0, ground := Ground.phase }, { on := 1, ground := Ground.phase }, { on := 2, ground := Ground.phase }, { on := 3, ground := Ground.phase }, { on := 4, ground := Ground.phase }, { on := 5, ground := Ground.phase }, { on := 6, ground := Ground.phase }, { on := 7, ground := Ground.phase }], guard := none }) rfl (by kernel_rfl) (by rfl) (.tmp 49) (.tmp 47) rfl (g) 3 96 rfl [X, Y, Z, r3] T rfl rfl RG_14.out (show 3 < 4 by omega) rfl ?_
    intro W15 hr15 hg15 hz15
    simp only [Act.put, List.setIfInBounds_toArray, List.set_cons_zero, List.set_cons_succ]
    have RG_15 : Hid (RAt W15 g [X, Y, Z, T]) := Lib.hid hr15
    have RX_15 := Lib.hid (RX_14.out.grown hg15 (by have := HN1.out; simp; omega))
    have RO_15 := Lib.hid (RO_14.out.grown hg15 (by have := HN2.out; simp; omega))
    have RY_15 := Lib.hid (RY_14.out.grown hg15 (by have := HN3.out; simp; omega))
    have RP_15 := Lib.hid (RP_14.out.grown hg15 (by have := HN4.out; simp; omega))
    have HF_15 : Hid (Keeps (· = g) w W15) := Lib.hid (HF_14.out.ownrow hg15)
    have HL_15 : Hid (v12.heap.size ≤ W15.heap.size) := Lib.hid (Nat.le_trans HL_14.out hg15.size)
    clear hr15 hg15 hz15 HL_14 RG_14 RX_14 RO_14 RY_14 RP_14 HF_14
    refine doneW (by kernel_rfl) ⟨rfl, ?_⟩ _
    exact ⟨RG_15.out, RX_15.out, RO_15.out, RY_15.out, RP_15.out, HF_15.out, rfl⟩
  rintro a' v16 ⟨h0, h1, h2, h3, h4, hF, rfl⟩
  have RG_16 := Lib.hid h0
  have RX_16 := Lib.hid h1
  have RO_16 := Lib.hid h2
  have RY_16 := Lib.hid h3
  have RP_16 := Lib.hid h4
  have HF_16 := Lib.hid hF
  clear h0 h1 h2 h3 h4 hF HLT13_0 HLT13_1 HLT13_2 HLT13_3 HLT13_4 HLO13 RG_12 RX_12 RO_12 RY_12 RP_12 HF_12
  go_wp2_with fail
  refine bodyPost_end (results_none rfl _ _ _) rfl ?_
  exact ⟨rfl, RG_16.out, HF_16.out⟩

set_option maxHeartbeats 4000000 in
theorem eread_core (g g1 r0 r1 r2 r3 x y t : Nat) (w : World)
    (H1 : Hid (∀ w, Calls Try.prog 17 #[.int .u64 1] w (Gives (vN 1) w))) (H2 : Hid (∀ w, Calls Try.prog 25 #[vN x, vN y] w (Gives (vN t) w)))
    (RG_0 : Hid (RAt w g [r0, r1, r2, r3])) (RX_0 : Hid (RAt w g1 [x, y])) (HN1 : Hid (g ≠ g1)) :
    Calls Try.prog 80 #[.pointer (some ⟨g, 0, none⟩), .pointer (some ⟨g1, 0, none⟩)] w (SetsR g [x, y, 1, t] w) := by
  have HF_0 : Hid (Keeps (· = g) w w) := Lib.hid (Keeps.refl _ _)
  go_enter Try.func80, Try.ntmps80
  go_wp2_with fail
  have HLT17_0 : Hid (g < w.heap.size) := Lib.hid RG_0.out.lt
  have HLT17_1 : Hid (g1 < w.heap.size) := Lib.hid RX_0.out.lt
  have HLO17 : Hid (w.heap.size ≤ w.heap.size) := Lib.hid HF_0.out.size
  refine region_split (fun a' W => RAt W g [x, y, 1, r3] ∧ RAt W g1 [x, y] ∧ Keeps (· = g) w W ∧ a' = ⟨#[.pointer (some ⟨g, 0, none⟩), .pointer (some ⟨g1, 0, none⟩), undef, undef, .pointer (some ⟨g, 0, none⟩), .pointer (some ⟨g, 0, none⟩), .pointer (some ⟨g, 0, none⟩), .pointer (some ⟨g1, 0, none⟩), .pointer (some ⟨g1, 0, none⟩), .pointer (some ⟨g1, 0, none⟩), vN x, .pointer (some ⟨g1, 0, none⟩), .pointer (some ⟨g1, 0, none⟩), .pointer (some ⟨g1, 32, none⟩), vN y, vN 1, .pointer (some ⟨g, 0, none⟩), .pointer (some ⟨g, 0, none⟩), .pointer (some ⟨g, 0, none⟩), .pointer (some ⟨g, 32, none⟩), .pointer (some ⟨g, 0, none⟩), .pointer (some ⟨g, 64, none⟩), undef, undef, undef, undef, undef, undef, undef, undef, undef, undef, undef, undef], []⟩) ?_ ?_
  · refine startW (fun j => j == 14 || j == 17 || j == 20) (w.heap.size) (by kernel_rfl) ?_
    obtain ⟨D17, hD17⟩ : ∃ D, D = w.drew := ⟨_, rfl⟩
    rw [← hD17]
    have HL_17 : Hid (w.heap.size ≤ D17.heap.size) := Lib.hid (by rw [hD17]; exact Nat.le_refl _)
    have RG_17 : Hid (RAt D17 g [r0, r1, r2, r3]) := Lib.hid (by rw [hD17]; exact RG_0.out)
    have RX_17 : Hid (RAt D17 g1 [x, y]) := Lib.hid (by rw [hD17]; exact RX_0.out)
    have HF_17 : Hid (Keeps (· = g) w D17) := Lib.hid (by rw [hD17]; exact drew_rel HF_0.out)
    clear hD17 RG_0 RX_0 HF_0
    refine takeAE (i := 0) (oi := { dst := some 4, op := Op.move (Operand.tmp 0), type := 80, pos := "extended.go:16", after := #[], guard := none }) rfl (by kernel_rfl) (by kernel_rfl) (by kernel_rfl) (fun _ _ _ _ h => nomatch h.1) (by rfl) ?_
    refine ⟨.pointer (some ⟨g, 0, none⟩), fun w' => exec_move (.tmp 0) rfl _ rfl, ?_⟩
    simp only [Act.put, List.setIfInBounds_toArray, List.set_cons_zero, List.set_cons_succ]
    refine takeAE (i := 1) (oi := { dst := some 5, op := Op.move (Operand.tmp 0), type := 80, pos := "extended.go:16", after := #[{ on := 14, ground := Ground.gcOnly Departure.lateStores }], guard := none }) rfl (by kernel_rfl) (by kernel_rfl) (by kernel_rfl) (fun _ _ _ _ h => nomatch h.1) (by rfl) ?_
    refine ⟨.pointer (some ⟨g, 0, none⟩), fun w' => exec_move (.tmp 0) rfl _ rfl, ?_⟩
    simp only [Act.put, List.setIfInBounds_toArray, List.set_cons_zero, List.set_cons_succ]
    refine takeAE (i := 2) (oi := { dst := some 6, op := Op.move (Operand.tmp 0), type := 80, pos := "extended.go:16", after := #[{ on := 17, ground := Ground.gcOnly Departure.lateStores }], guard := none }) rfl (by kernel_rfl) (by kernel_rfl) (by kernel_rfl) (fun _ _ _ _ h => nomatch h.1) (by rfl) ?_
    refine ⟨.pointer (some ⟨g, 0, none⟩), fun w' => exec_move (.tmp 0) rfl _ rfl, ?_⟩
    simp only [Act.put, List.setIfInBounds_toArray, List.set_cons_zero, List.set_cons_succ]
    refine takeAE (i := 3) (oi := { dst := some 7, op := Op.move (Operand.tmp 1), type := 78, pos := "extended.go:16", after := #[], guard := none }) rfl (by kernel_rfl) (by kernel_rfl) (by kernel_rfl) (fun _ _ _ _ h => nomatch h.1) (by rfl) ?_
    refine ⟨.pointer (some ⟨g1, 0, none⟩), fun w' => exec_move (.tmp 1) rfl _ rfl, ?_⟩
    simp only [Act.put, List.setIfInBounds_toArray, List.set_cons_zero, List.set_cons_succ]
    refine takeAE (i := 4) (oi := { dst := some 8, op := Op.nilCheck (Operand.tmp 7), type := 0, pos := "extended.go:16", after := #[{ on := 3, ground := Ground.data }], guard := none }) rfl (by kernel_rfl) (by kernel_rfl) (by kernel_rfl) (fun _ _ _ _ h => nomatch h.1) (by rfl) ?_
    refine ⟨.pointer (some ⟨g1, 0, none⟩), fun w' => exec_nil (.tmp 7) rfl _ rfl, ?_⟩
    simp only [Act.put, List.setIfInBounds_toArray, List.set_cons_zero, List.set_cons_succ]
    refine takeAE (i := 5) (oi := { dst := some 9, op := Op.fieldAddr 35 (Operand.tmp 8) 0, type := 0, pos := "extended.go:16", after := #[{ on := 4, ground := Ground.data }], guard := none }) rfl (by kernel_rfl) (by kernel_rfl) (by kernel_rfl) (fun _ _ _ _ h => nomatch h.1) (by rfl) ?_
    refine ⟨.pointer (some ⟨g1, 0, none⟩), fun w' => exec_field 35 (.tmp 8) 0 rfl _ 0 rfl (fld35_0 _), ?_⟩
    simp only [Act.put, List.setIfInBounds_toArray, List.set_cons_zero, List.set_cons_succ]
    refine takeT (i := 6) (oi := { dst := some 10, op := Op.load 23 (Operand.tmp 9), type := 23, pos := "extended.go:16", after := #[{ on := 5, ground := Ground.data }], guard := none }) (vN x) rfl (by kernel_rfl) (by kernel_rfl) (by kernel_rfl) (by kernel_rfl) (by kernel_rfl) (fun _ _ _ h => nomatch h.1) (by rfl) (fun w' hk => exec_loadF (.tmp 9) rfl (g1) 0 0 rfl [x, y] x rfl (RX_17.out.below hk HLT17_1.out) rfl) ?_
    simp only [Act.put, List.setIfInBounds_toArray, List.set_cons_zero, List.set_cons_succ]
    refine takeAE (i := 7) (oi := { dst := some 11, op := Op.move (Operand.tmp 1), type := 78, pos := "extended.go:16", after := #[], guard := none }) rfl (by kernel_rfl) (by kernel_rfl) (by kernel_rfl) (fun _ _ _ _ h => nomatch h.1) (by rfl) ?_
    refine ⟨.pointer (some ⟨g1, 0, none⟩), fun w' => exec_move (.tmp 1) rfl _ rfl, ?_⟩
    simp only [Act.put, List.setIfInBounds_toArray, List.set_cons_zero, List.set_cons_succ]
    refine takeAE (i := 8) (oi := { dst := some 12, op := Op.nilCheck (Operand.tmp 11), type := 0, pos := "extended.go:16", after := #[{ on := 7, ground := Ground.data }], guard := none }) rfl (by kernel_rfl) (by kernel_rfl) (by kernel_rfl) (fun _ _ _ _ h => nomatch h.1) (by rfl) ?_
    refine ⟨.pointer (some ⟨g1, 0, none⟩), fun w' => exec_nil (.tmp 11) rfl _ rfl, ?_⟩
    simp only [Act.put, List.setIfInBounds_toArray, List.set_cons_zero, List.set_cons_succ]
    refine takeAE (i := 9) (oi := { dst := some 13, op := Op.fieldAddr 35 (Operand.tmp 12) 1, type := 0, pos := "extended.go:16", after := #[{ on := 8, ground := Ground.data }], guard := none }) rfl (by kernel_rfl) (by kernel_rfl) (by kernel_rfl) (fun _ _ _ _ h => nomatch h.1) (by rfl) ?_
    refine ⟨.pointer (some ⟨g1, 32, none⟩), fun w' => exec_field 35 (.tmp 12) 1 rfl _ 32 rfl (fld35_1 _), ?_⟩
    simp only [Act.put, List.setIfInBounds_toArray, List.set_cons_zero, List.set_cons_succ]
    refine takeT (i := 10) (oi := { dst := some 14, op := Op.load 23 (Operand.tmp 13), type := 23, pos := "extended.go:16", after := #[{ on := 9, ground := Ground.data }], guard := none }) (vN y) rfl (by kernel_rfl) (by kernel_rfl) (by kernel_rfl) (by kernel_rfl) (by kernel_rfl) (fun _ _ _ h => nomatch h.1) (by rfl) (fun w' hk => exec_loadF (.tmp 13) rfl (g1) 1 32 rfl [x, y] y rfl (RX_17.out.below hk HLT17_1.out) rfl) ?_
    simp only [Act.put, List.setIfInBounds_toArray, List.set_cons_zero, List.set_cons_succ]
    refine callW (i := 11) (oi := { dst := some 15, op := Op.call { callee := Callee.value (Operand.func 17), args := #[Operand.const (Value.int IntKind.u64 1)], argTypes := #[24] }, type := 23, pos := "extended.go:16", after := #[], guard := none }) rfl (by kernel_rfl) (by rfl) (exec_callL 17 [.const (.int .u64 1)] #[24] rfl [.int .u64 1] rfl (CG17 _)) ((H1.out D17).mono ?_)
    rintro e18 W18 ⟨rfl, hb18⟩
    refine ⟨_, rfl, fun _ => hb18.mono HL_17.out, ?_⟩
    have RG_18 := Lib.hid (RG_17.out.keep hb18)
    have RX_18 := Lib.hid (RX_17.out.keep hb18)
    have HF_18 : Hid (Keeps (· = g) w W18) := Lib.hid (HF_17.out.call hb18)
    have HL_18 : Hid (w.heap.size ≤ W18.heap.size) := Lib.hid (Nat.le_trans HL_17.out hb18.size)
    clear hb18 HL_17 RG_17 RX_17 HF_17
    simp only [Act.put, List.setIfInBounds_toArray, List.set_cons_zero, List.set_cons_succ]
    refine takeAE (i := 12) (oi := { dst := some 16, op := Op.nilCheck (Operand.tmp 4), type := 0, pos := "extended.go:16", after := #[{ on := 0, ground := Ground.data }, { on := 0, ground := Ground.phase }, { on := 1, ground := Ground.textOnly Departure.lateStores }, { on := 2, ground := Ground.textOnly Departure.lateStores }, { on := 3, ground := Ground.phase }, { on := 4, ground := Ground.phase }, { on := 5, ground := Ground.phase }, { on := 6, ground := Ground.phase }, { on := 7, ground := Ground.textOnly Departure.lateStores }, { on := 8, ground := Ground.textOnly Departure.lateStoresUnsure }, { on := 9, ground := Ground.textOnly Departure.lateStoresUnsure }, { on := 10, ground := Ground.phase }, { on := 11, ground := Ground.phase }], guard := none }) rfl (by kernel_rfl) (by kernel_rfl) (by kernel_rfl) (fun _ _ _ _ h => nomatch h.1) (by rfl) ?_
    refine ⟨.pointer (some ⟨g, 0, none⟩), fun w' => exec_nil (.tmp 4) rfl _ rfl, ?_⟩
    simp only [Act.put, List.setIfInBounds_toArray, List.set_cons_zero, List.set_cons_succ]
    refine takeAE (i := 13) (oi := { dst := some 17, op := Op.fieldAddr 76 (Operand.tmp 16) 0, type := 0, pos := "extended.go:16", after := #[{ on := 12, ground := Ground.data }, { on := 0, ground := Ground.phase }, { on := 1, ground := Ground.textOnly Departure.lateStores }, { on := 2, ground := Ground.textOnly Departure.lateStores }, { on := 3, ground := Ground.phase }, { on := 4, ground := Ground.phase }, { on := 5, ground := Ground.phase }, { on := 6, ground := Ground.phase }, { on := 7, ground := Ground.textOnly Departure.lateStores }, { on := 8, ground := Ground.textOnly Departure.lateStoresUnsure }, { on := 9, ground := Ground.textOnly Departure.lateStoresUnsure }, { on := 10, ground := Ground.phase }, { on := 11, ground := Ground.phase }], guard := none }) rfl (by kernel_rfl) (by kernel_rfl) (by kernel_rfl) (fun _ _ _ _ h => nomatch h.1) (by rfl) ?_
    refine ⟨.pointer (some ⟨g, 0, none⟩), fun w' => exec_field 76 (.tmp 16) 0 rfl _ 0 rfl (fld76_0 _), ?_⟩
    simp only [Act.put, List.setIfInBounds_toArray, List.set_cons_zero, List.set_cons_succ]
    refine storeW_F (i := 14) (oi := { dst := none, op := Op.store 23 (Operand.tmp 17) (Operand.tmp 10), type := 0, pos := "extended.go:16", after := #[{ on := 13, ground := Ground.data }, { on := 6, ground := Ground.data }, { on := 11, ground := Ground.chain }, { on := 0, ground := Ground.phase }, { on := 1, ground := Ground.textOnly Departure.lateStores }, { on := 2, ground := Ground.textOnly Departure.lateStores }, { on := 3, ground := Ground.phase }, { on := 4, ground := Ground.phase }, { on := 5, ground := Ground.phase }, { on := 6, ground := Ground.phase }, { on := 7, ground := Ground.textOnly Departure.lateStores }, { on := 8, ground := Ground.textOnly Departure.lateStoresUnsure }, { on := 9, ground := Ground.textOnly Departure.lateStoresUnsure }, { on := 10, ground := Ground.phase }, { on := 11, ground := Ground.phase }], guard := none }) rfl (by kernel_rfl) (by rfl) (.tmp 17) (.tmp 10) rfl (g) 0 0 rfl [r0, r1, r2, r3] x rfl rfl RG_18.out (show 0 < 4 by omega) rfl ?_
    intro W19 hr19 hg19 hz19
    simp only [Act.put, List.setIfInBounds_toArray, List.set_cons_zero, List.set_cons_succ]
    have RG_19 : Hid (RAt W19 g [x, r1, r2, r3]) := Lib.hid hr19
    have RX_19 := Lib.hid (RX_18.out.grown hg19 (by have := HN1.out; simp; omega))
    have HF_19 : Hid (Keeps (· = g) w W19) := Lib.hid (HF_18.out.ownrow hg19)
    have HL_19 : Hid (w.heap.size ≤ W19.heap.size) := Lib.hid (Nat.le_trans HL_18.out hg19.size)
    clear hr19 hg19 hz19 HL_18 RG_18 RX_18 HF_18
    refine takeAE (i := 15) (oi := { dst := some 18, op := Op.nilCheck (Operand.tmp 5), type := 0, pos := "extended.go:16", after := #[{ on := 1, ground := Ground.data }, { on := 0, ground := Ground.phase }, { on := 1, ground := Ground.phase }, { on := 2, ground := Ground.textOnly Departure.lateStores }, { on := 3, ground := Ground.phase }, { on := 4, ground := Ground.phase }, { on := 5, ground := Ground.phase }, { on := 6, ground := Ground.phase }, { on := 7, ground := Ground.phase }, { on := 8, ground := Ground.phase }, { on := 9, ground := Ground.phase }, { on := 10, ground := Ground.phase }, { on := 11, ground := Ground.phase }, { on := 12, ground := Ground.phase }, { on := 13, ground := Ground.phase }, { on := 14, ground := Ground.phase }], guard := none }) rfl (by kernel_rfl) (by kernel_rfl) (by kernel_rfl) (fun _ _ _ _ h => nomatch h.1) (by rfl) ?_
    refine ⟨.pointer (some ⟨g, 0, none⟩), fun w' => exec_nil (.tmp 5) rfl _ rfl, ?_⟩
    simp only [Act.put, List.setIfInBounds_toArray, List.set_cons_zero, List.set_cons_succ]
    refine takeAE (i := 16) (oi := { dst := some 19, op := Op.fieldAddr 76 (Operand.tmp 18) 1, type := 0, pos := "extended.go:16", after := #[{ on := 15, ground := Ground.data }, { on := 0, ground := Ground.phase }, { on := 1, ground := Ground.phase }, { on := 2, ground := Ground.textOnly Departure.lateStores }, { on := 3, ground := Ground.phase }, { on := 4, ground := Ground.phase }, { on := 5, ground := Ground.phase }, { on := 6, ground := Ground.phase }, { on := 7, ground := Ground.phase }, { on := 8, ground := Ground.phase }, { on := 9, ground := Ground.phase }, { on := 10, ground := Ground.phase }, { on := 11, ground := Ground.phase }, { on := 12, ground := Ground.phase }, { on := 13, ground := Ground.phase }, { on := 14, ground := Ground.phase }], guard := none }) rfl (by kernel_rfl) (by kernel_rfl) (by kernel_rfl) (fun _ _ _ _ h => nomatch h.1) (by rfl) ?_
    refine ⟨.pointer (some ⟨g, 32, none⟩), fun w' => exec_field 76 (.tmp 18) 1 rfl _ 32 rfl (fld76_1 _), ?_⟩
    simp only [Act.put, List.setIfInBounds_toArray, List.set_cons_zero, List.set_cons_succ]
    refine storeW_F (i := 17) (oi := { dst := none, op := Op.store 23 (Operand.tmp 19) (Operand.tmp 14), type := 0, pos := "extended.go:16", after := #[{ on := 16, ground := Ground.data }, { on := 10, ground := Ground.data }, { on := 14, ground := Ground.chain }, { on := 0, ground := Ground.phase }, { on := 1, ground := Ground.phase }, { on := 2, ground := Ground.textOnly Departure.lateStores }, { on := 3, ground := Ground.phase }, { on := 4, ground := Ground.phase }, { on := 5, ground := Ground.phase }, { on := 6, ground := Ground.phase }, { on := 7, ground := Ground.phase }, { on := 8, ground := Ground.phase }, { on := 9, ground := Ground.phase }, { on := 10, ground := Ground.phase }, { on := 11, ground := Ground.phase }, { on := 12, ground := Ground.phase }, { on := 13, ground := Ground.phase }, { on := 14, ground := Ground.phase }], guard := none }) rfl (by kernel_rfl) (by rfl) (.tmp 19) (.tmp 14) rfl (g) 1 32 rfl [x, r1, r2, r3] y rfl rfl RG_19.out (show 1 < 4 by omega) rfl ?_
    intro W20 hr20 hg20 hz20
    simp only [Act.put, List.setIfInBounds_toArray, List.set_cons_zero, List.set_cons_succ]
    have RG_20 : Hid (RAt W20 g [x, y, r2, r3]) := Lib.hid hr20
    have RX_20 := Lib.hid (RX_19.out.grown hg20 (by have := HN1.out; simp; omega))
    have HF_20 : Hid (Keeps (· = g) w W20) := Lib.hid (HF_19.out.ownrow hg20)
    have HL_20 : Hid (w.heap.size ≤ W20.heap.size) := Lib.hid (Nat.le_trans HL_19.out hg20.size)
    clear hr20 hg20 hz20 HL_19 RG_19 RX_19 HF_19
    refine takeAE (i := 18) (oi := { dst := some 20, op := Op.nilCheck (Operand.tmp 6), type := 0, pos := "extended.go:16", after := #[{ on := 2, ground := Ground.data }, { on := 0, ground := Ground.phase }, { on := 1, ground := Ground.phase }, { on := 2, ground := Ground.phase }, { on := 3, ground := Ground.phase }, { on := 4, ground := Ground.phase }, { on := 5, ground := Ground.phase }, { on := 6, ground := Ground.phase }, { on := 7, ground := Ground.phase }, { on := 8, ground := Ground.phase }, { on := 9, ground := Ground.phase }, { on := 10, ground := Ground.phase }, { on := 11, ground := Ground.phase }, { on := 12, ground := Ground.phase }, { on := 13, ground := Ground.phase }, { on := 14, ground := Ground.phase }, { on := 15, ground := Ground.phase }, { on := 16, ground := Ground.phase }, { on := 17, ground := Ground.phase }], guard := none }) rfl (by kernel_rfl) (by kernel_rfl) (by kernel_rfl) (fun _ _ _ _ h => nomatch h.1) (by rfl) ?_
    refine ⟨.pointer (some ⟨g, 0, none⟩), fun w' => exec_nil (.tmp 6) rfl _ rfl, ?_⟩
    simp only [Act.put, List.setIfInBounds_toArray, List.set_cons_zero, List.set_cons_succ]
    refine takeAE (i := 19) (oi := { dst := some 21, op := Op.fieldAddr 76 (Operand.tmp 20) 2, type := 0, pos := "extended.go:16", after := #[{ on := 18, ground := Ground.data }, { on := 0, ground := Ground.phase }, { on := 1, ground := Ground.phase }, { on := 2, ground := Ground.phase }, { on := 3, ground := Ground.phase }, { on := 4, ground := Ground.phase }, { on := 5, ground := Ground.phase }, { on := 6, ground := Ground.phase }, { on := 7, ground := Ground.phase }, { on := 8, ground := Ground.phase }, { on := 9, ground := Ground.phase }, { on := 10, ground := Ground.phase }, { on := 11, ground := Ground.phase }, { on := 12, ground := Ground.phase }, { on := 13, ground := Ground.phase }, { on := 14, ground := Ground.phase }, { on := 15, ground := Ground.phase }, { on := 16, ground := Ground.phase }, { on := 17, ground := Ground.phase }], guard := none }) rfl (by kernel_rfl) (by kernel_rfl) (by kernel_rfl) (fun _ _ _ _ h => nomatch h.1) (by rfl) ?_
    refine ⟨.pointer (some ⟨g, 64, none⟩), fun w' => exec_field 76 (.tmp 20) 2 rfl _ 64 rfl (fld76_2 _), ?_⟩
    simp only [Act.put, List.setIfInBounds_toArray, List.set_cons_zero, List.set_cons_succ]
    refine storeW_F (i := 20) (oi := { dst := none, op := Op.store 23 (Operand.tmp 21) (Operand.tmp 15), type := 0, pos := "extended.go:16", after := #[{ on := 19, ground := Ground.data }, { on := 11, ground := Ground.data }, { on := 17, ground := Ground.chain }, { on := 0, ground := Ground.phase }, { on := 1, ground := Ground.phase }, { on := 2, ground := Ground.phase }, { on := 3, ground := Ground.phase }, { on := 4, ground := Ground.phase }, { on := 5, ground := Ground.phase }, { on := 6, ground := Ground.phase }, { on := 7, ground := Ground.phase }, { on := 8, ground := Ground.phase }, { on := 9, ground := Ground.phase }, { on := 10, ground := Ground.phase }, { on := 11, ground := Ground.phase }, { on := 12, ground := Ground.phase }, { on := 13, ground := Ground.phase }, { on := 14, ground := Ground.phase }, { on := 15, ground := Ground.phase }, { on := 16, ground := Ground.phase }, { on := 17, ground := Ground.phase }], guard := none }) rfl (by kernel_rfl) (by rfl) (.tmp 21) (.tmp 15) rfl (g) 2 64 rfl [x, y, r2, r3] 1 rfl rfl RG_20.out (show 2 < 4 by omega) rfl ?_
    intro W21 hr21 hg21 hz21
    simp only [Act.put, List.setIfInBounds_toArray, List.set_cons_zero, List.set_cons_succ]
    have RG_21 : Hid (RAt W21 g [x, y, 1, r3]) := Lib.hid hr21
    have RX_21 := Lib.hid (RX_20.out.grown hg21 (by have := HN1.out; simp; omega))
    have HF_21 : Hid (Keeps (· = g) w W21) := Lib.hid (HF_20.out.ownrow hg21)
    have HL_21 : Hid (w.heap.size ≤ W21.heap.size) := Lib.hid (Nat.le_trans HL_20.out hg21.size)
    clear hr21 hg21 hz21 HL_20 RG_20 RX_20 HF_20
    refine doneW (by kernel_rfl) ⟨rfl, ?_⟩ _
    exact ⟨RG_21.out, RX_21.out, HF_21.out, rfl⟩
  rintro a' v22 ⟨h0, h1, hF, rfl⟩
  have RG_22 := Lib.hid h0
  have RX_22 := Lib.hid h1
  have HF_22 := Lib.hid hF
  clear h0 h1 hF HLT17_0 HLT17_1 HLO17 RG_0 RX_0 HF_0
  go_wp2_with fail
  have HLT23_0 : Hid (g < v22.heap.size) := Lib.hid RG_22.out.lt
  have HLT23_1 : Hid (g1 < v22.heap.size) := Lib.hid RX_22.out.lt
  have HLO23 : Hid (w.heap.size ≤ v22.heap.size) := Lib.hid HF_22.out.size
  refine region_split (fun a' W => RAt W g [x, y, 1, t] ∧ RAt W g1 [x, y] ∧ Keeps (· = g) w W ∧ a' = ⟨#[.pointer (some ⟨g, 0, none⟩), .pointer (some ⟨g1, 0, none⟩), undef, undef, .pointer (some ⟨g, 0, none⟩), .pointer (some ⟨g, 0, none⟩), .pointer (some ⟨g, 0, none⟩), .pointer (some ⟨g1, 0, none⟩), .pointer (some ⟨g1, 0, none⟩), .pointer (some ⟨g1, 0, none⟩), vN x, .pointer (some ⟨g1, 0, none⟩), .pointer (some ⟨g1, 0, none⟩), .pointer (some ⟨g1, 32, none⟩), vN y, vN 1, .pointer (some ⟨g, 0, none⟩), .pointer (some ⟨g, 0, none⟩), .pointer (some ⟨g, 0, none⟩), .pointer (some ⟨g, 32, none⟩), .pointer (some ⟨g, 0, none⟩), .pointer (some ⟨g, 64, none⟩), .pointer (some ⟨g, 0, none⟩), .pointer (some ⟨g1, 0, none⟩), .pointer (some ⟨g1, 0, none⟩), .pointer (some ⟨g1, 0, none⟩), vN x, .pointer (some ⟨g1, 0, none⟩), .pointer (some ⟨g1, 0, none⟩), .pointer (some ⟨g1, 32, none⟩), vN y, vN t, .pointer (some ⟨g, 0, none⟩), .pointer (some ⟨g, 96, none⟩)], []⟩) ?_ ?_
  · refine startW (fun j => j == 12) (v22.heap.size) (by kernel_rfl) ?_
    obtain ⟨D23, hD23⟩ : ∃ D, D = v22.drew := ⟨_, rfl⟩
    rw [← hD23]
    have HL_23 : Hid (v22.heap.size ≤ D23.heap.size) := Lib.hid (by rw [hD23]; exact Nat.le_refl _)
    have RG_23 : Hid (RAt D23 g [x, y, 1, r3]) := Lib.hid (by rw [hD23]; exact RG_22.out)
    have RX_23 : Hid (RAt D23 g1 [x, y]) := Lib.hid (by rw [hD23]; exact RX_22.out)
    have HF_23 : Hid (Keeps (· = g) w D23) := Lib.hid (by rw [hD23]; exact drew_rel HF_22.out)
    clear hD23 RG_22 RX_22 HF_22
    refine takeAE (i := 0) (oi := { dst := some 22, op := Op.move (Operand.tmp 0), type := 80, pos := "extended.go:17", after := #[], guard := none }) rfl (by kernel_rfl) (by kernel_rfl) (by kernel_rfl) (fun _ _ _ _ h => nomatch h.1) (by rfl) ?_
    refine ⟨.pointer (some ⟨g, 0, none⟩), fun w' => exec_move (.tmp 0) rfl _ rfl, ?_⟩
    simp only [Act.put, List.setIfInBounds_toArray, List.set_cons_zero, List.set_cons_succ]
    refine takeAE (i := 1) (oi := { dst := some 23, op := Op.move (Operand.tmp 1), type := 78, pos := "extended.go:17", after := #[], guard := none }) rfl (by kernel_rfl) (by kernel_rfl) (by kernel_rfl) (fun _ _ _ _ h => nomatch h.1) (by rfl) ?_
    refine ⟨.pointer (some ⟨g1, 0, none⟩), fun w' => exec_move (.tmp 1) rfl _ rfl, ?_⟩
    simp only [Act.put, List.setIfInBounds_toArray, List.set_cons_zero, List.set_cons_succ]
    refine takeAE (i := 2) (oi := { dst := some 24, op := Op.nilCheck (Operand.tmp 23), type := 0, pos := "extended.go:17", after := #[{ on := 1, ground := Ground.data }], guard := none }) rfl (by kernel_rfl) (by kernel_rfl) (by kernel_rfl) (fun _ _ _ _ h => nomatch h.1) (by rfl) ?_
    refine ⟨.pointer (some ⟨g1, 0, none⟩), fun w' => exec_nil (.tmp 23) rfl _ rfl, ?_⟩
    simp only [Act.put, List.setIfInBounds_toArray, List.set_cons_zero, List.set_cons_succ]
    refine takeAE (i := 3) (oi := { dst := some 25, op := Op.fieldAddr 35 (Operand.tmp 24) 0, type := 0, pos := "extended.go:17", after := #[{ on := 2, ground := Ground.data }], guard := none }) rfl (by kernel_rfl) (by kernel_rfl) (by kernel_rfl) (fun _ _ _ _ h => nomatch h.1) (by rfl) ?_
    refine ⟨.pointer (some ⟨g1, 0, none⟩), fun w' => exec_field 35 (.tmp 24) 0 rfl _ 0 rfl (fld35_0 _), ?_⟩
    simp only [Act.put, List.setIfInBounds_toArray, List.set_cons_zero, List.set_cons_succ]
    refine takeT (i := 4) (oi := { dst := some 26, op := Op.load 23 (Operand.tmp 25), type := 23, pos := "extended.go:17", after := #[{ on := 3, ground := Ground.data }], guard := none }) (vN x) rfl (by kernel_rfl) (by kernel_rfl) (by kernel_rfl) (by kernel_rfl) (by kernel_rfl) (fun _ _ _ h => nomatch h.1) (by rfl) (fun w' hk => exec_loadF (.tmp 25) rfl (g1) 0 0 rfl [x, y] x rfl (RX_23.out.below hk HLT23_1.out) rfl) ?_
    simp only [Act.put, List.setIfInBounds_toArray, List.set_cons_zero, List.set_cons_succ]
    refine takeAE (i := 5) (oi := { dst := some 27, op := Op.move (Operand.tmp 1), type := 78, pos := "extended.go:17", after := #[], guard := none }) rfl (by kernel_rfl) (by kernel_rfl) (by kernel_rfl) (fun _ _ _ _ h => nomatch h.1) (by rfl) ?_
    refine ⟨.pointer (some ⟨g1, 0, none⟩), fun w' => exec_move (.tmp 1) rfl _ rfl, ?_⟩
    simp only [Act.put, List.setIfInBounds_toArray, List.set_cons_zero, List.set_cons_succ]
    refine takeAE (i := 6) (oi := { dst := some 28, op := Op.nilCheck (Operand.tmp 27), type := 0, pos := "extended.go:17", after := #[{ on := 5, ground := Ground.data }], guard := none }) rfl (by kernel_rfl) (by kernel_rfl) (by kernel_rfl) (fun _ _ _ _ h => nomatch h.1) (by rfl) ?_
    refine ⟨.pointer (some ⟨g1, 0, none⟩), fun w' => exec_nil (.tmp 27) rfl _ rfl, ?_⟩
    simp only [Act.put, List.setIfInBounds_toArray, List.set_cons_zero, List.set_cons_succ]
    refine takeAE (i := 7) (oi := { dst := some 29, op := Op.fieldAddr 35 (Operand.tmp 28) 1, type := 0, pos := "extended.go:17", after := #[{ on := 6, ground := Ground.data }], guard := none }) rfl (by kernel_rfl) (by kernel_rfl) (by kernel_rfl) (fun _ _ _ _ h => nomatch h.1) (by rfl) ?_
    refine ⟨.pointer (some ⟨g1, 32, none⟩), fun w' => exec_field 35 (.tmp 28) 1 rfl _ 32 rfl (fld35_1 _), ?_⟩
    simp only [Act.put, List.setIfInBounds_toArray, List.set_cons_zero, List.set_cons_succ]
    refine takeT (i := 8) (oi := { dst := some 30, op := Op.load 23 (Operand.tmp 29), type := 23, pos := "extended.go:17", after := #[{ on := 7, ground := Ground.data }], guard := none }) (vN y) rfl (by kernel_rfl) (by kernel_rfl) (by kernel_rfl) (by kernel_rfl) (by kernel_rfl) (fun _ _ _ h => nomatch h.1) (by rfl) (fun w' hk => exec_loadF (.tmp 29) rfl (g1) 1 32 rfl [x, y] y rfl (RX_23.out.below hk HLT23_1.out) rfl) ?_
    simp only [Act.put, List.setIfInBounds_toArray, List.set_cons_zero, List.set_cons_succ]
    refine callW (i := 9) (oi := { dst := some 31, op := Op.call { callee := Callee.value (Operand.func 25), args := #[Operand.tmp 26, Operand.tmp 30], argTypes := #[23, 23] }, type := 23, pos := "extended.go:17", after := #[{ on := 4, ground := Ground.data }, { on := 8, ground := Ground.data }], guard := none }) rfl (by kernel_rfl) (by rfl) (exec_callL 25 [.tmp 26, .tmp 30] #[23, 23] rfl [vN x, vN y] rfl (CG25 _)) ((H2.out D23).mono ?_)
    rintro e24 W24 ⟨rfl, hb24⟩
    refine ⟨_, rfl, fun _ => hb24.mono HL_23.out, ?_⟩
    have RG_24 := Lib.hid (RG_23.out.keep hb24)
    have RX_24 := Lib.hid (RX_23.out.keep hb24)
    have HF_24 : Hid (Keeps (· = g) w W24) := Lib.hid (HF_23.out.call hb24)
    have HL_24 : Hid (v22.heap.size ≤ W24.heap.size) := Lib.hid (Nat.le_trans HL_23.out hb24.size)
    clear hb24 HL_23 RG_23 RX_23 HF_23
    simp only [Act.put, List.setIfInBounds_toArray, List.set_cons_zero, List.set_cons_succ]
    refine takeAE (i := 10) (oi := { dst := some 32, op := Op.nilCheck (Operand.tmp 22), type := 0, pos := "extended.go:17", after := #[{ on := 0, ground := Ground.data }, { on := 0, ground := Ground.phase }, { on := 1, ground := Ground.phase }, { on := 2, ground := Ground.phase }, { on := 3, ground := Ground.phase }, { on := 4, ground := Ground.phase }, { on := 5, ground := Ground.phase }, { on := 6, ground := Ground.phase }, { on := 7, ground := Ground.phase }, { on := 8, ground := Ground.phase }, { on := 9, ground := Ground.phase }], guard := none }) rfl (by kernel_rfl) (by kernel_rfl) (by kernel_rfl) (fun _ _ _ _ h => nomatch h.1) (by rfl) ?_
    refine ⟨.pointer (some ⟨g, 0, none⟩), fun w' => exec_nil (.tmp 22) rfl _ rfl, ?_⟩
    simp only [Act.put, List.setIfInBounds_toArray, List.set_cons_zero, List.set_cons_succ]
    refine takeAE (i := 11) (oi := { dst := some 33, op := Op.fieldAddr 76 (Operand.tmp 32) 3, type := 0, pos := "extended.go:17", after := #[{ on := 10, ground := Ground.data }, { on := 0, ground := Ground.phase }, { on := 1, ground := Ground.phase }, { on := 2, ground := Ground.phase }, { on := 3, ground := Ground.phase }, { on := 4, ground := Ground.phase }, { on := 5, ground := Ground.phase }, { on := 6, ground := Ground.phase }, { on := 7, ground := Ground.phase }, { on := 8, ground := Ground.phase }, { on := 9, ground := Ground.phase }], guard := none }) rfl (by kernel_rfl) (by kernel_rfl) (by kernel_rfl) (fun _ _ _ _ h => nomatch h.1) (by rfl) ?_
    refine ⟨.pointer (some ⟨g, 96, none⟩), fun w' => exec_field 76 (.tmp 32) 3 rfl _ 96 rfl (fld76_3 _), ?_⟩
    simp only [Act.put, List.setIfInBounds_toArray, List.set_cons_zero, List.set_cons_succ]
    refine storeW_F (i := 12) (oi := { dst := none, op := Op.store 23 (Operand.tmp 33) (Operand.tmp 31), type := 0, pos := "extended.go:17", after := #[{ on := 11, ground := Ground.data }, { on := 9, ground := Ground.data }, { on := 9, ground := Ground.chain }, { on := 0, ground := Ground.phase }, { on := 1, ground := Ground.phase }, { on := 2, ground := Ground.phase }, { on := 3, ground := Ground.phase }, { on := 4, ground := Ground.phase }, { on := 5, ground := Ground.phase }, { on := 6, ground := Ground.phase }, { on := 7, ground := Ground.phase }, { on := 8, ground := Ground.phase }, { on := 9, ground := Ground.phase }], guard := none }) rfl (by kernel_rfl) (by rfl) (.tmp 33) (.tmp 31) rfl (g) 3 96 rfl [x, y, 1, r3] t rfl rfl RG_24.out (show 3 < 4 by omega) rfl ?_
    intro W25 hr25 hg25 hz25
    simp only [Act.put, List.setIfInBounds_toArray, List.set_cons_zero, List.set_cons_succ]
    have RG_25 : Hid (RAt W25 g [x, y, 1, t]) := Lib.hid hr25
    have RX_25 := Lib.hid (RX_24.out.grown hg25 (by have := HN1.out; simp; omega))
    have HF_25 : Hid (Keeps (· = g) w W25) := Lib.hid (HF_24.out.ownrow hg25)
    have HL_25 : Hid (v22.heap.size ≤ W25.heap.size) := Lib.hid (Nat.le_trans HL_24.out hg25.size)
    clear hr25 hg25 hz25 HL_24 RG_24 RX_24 HF_24
    refine doneW (by kernel_rfl) ⟨rfl, ?_⟩ _
    exact ⟨RG_25.out, RX_25.out, HF_25.out, rfl⟩
  rintro a' v26 ⟨h0, h1, hF, rfl⟩
  have RG_26 := Lib.hid h0
  have RX_26 := Lib.hid h1
  have HF_26 := Lib.hid hF
  clear h0 h1 hF HLT23_0 HLT23_1 HLO23 RG_22 RX_22 HF_22
  go_wp2_with fail
  refine bodyPost_end (results_none rfl _ _ _) rfl ?_
  exact ⟨rfl, RG_26.out, HF_26.out⟩
end Go.Proofs.Ytgdimnbdnepbgaa
