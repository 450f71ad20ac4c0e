/- Several texts in one. No statement is proved here. -/
import Derived.Test.YtgdimnbdnepbgaaN7
import Derived.Test.YtgdimnbdnepbgaaN2
/- The reference's functions of numbers. No statement is proved here. -/
namespace Go.Proofs.Ytgdimnbdnepbgaa
open Go.RowKit
set_option linter.unusedVariables false
set_option maxRecDepth 40000
set_option linter.unusedSimpArgs false


set_option maxHeartbeats 1000000 in
theorem rAdd_core (a b n : Nat) (x y z : List Nat) (w : World)
    (HA : Hid (∀ w, Calls Try.prog 68 #[vN a] w (Gives (.agg (ics x).toArray) w))) (HBb : Hid (∀ w, Calls Try.prog 68 #[vN b] w (Gives (.agg (ics y).toArray) w))) (HP : Hid (∀ w, Calls Try.prog 71 #[.agg (ics x).toArray, .agg (ics y).toArray] w (Gives (.agg (ics z).toArray) w))) (HC : Hid (∀ w, Calls Try.prog 67 #[.agg (ics z).toArray] w (Gives (vN n) w))) :
    Calls Try.prog 20 #[vN a, vN b] w (Gives (vN n) w) := by
  go_enter Try.func20, Try.ntmps20
  go_wp2_with (first | ((with_reducible show wpList _ _ _ (⟨some 2, .box 23 (.tmp 0), _, _, _, _⟩ :: _) _ _); go_must (refine wpList_box_row rfl 23 (.tmp 0) rfl (bcs (enc a)).toArray rfl ?_; intro w1 h1 z1 g1; have H1 := Lib.hid h1; have Z1 := Lib.hid z1; have G1 := Lib.hid g1; clear h1 z1 g1)) | ((with_reducible show wpList _ _ _ (⟨some 3, .box 23 (.tmp 1), _, _, _, _⟩ :: _) _ _); go_must (refine wpList_box_row rfl 23 (.tmp 1) rfl (bcs (enc b)).toArray rfl ?_; intro w2 h1 z1 g1; have H2 := Lib.hid h1; have Z2 := Lib.hid z1; have G2 := Lib.hid g1; clear h1 z1 g1)) | ((with_reducible show wpList _ _ _ (⟨some 4, .alloc 23, _, _, _, _⟩ :: _) _ _); go_must (refine wpList_alloc_row rfl 23 rfl (.agg (zbs 32)) zero23 ?_; intro w3 h1 z1 g1; have H3 := Lib.hid h1; have Z3 := Lib.hid z1; have G3 := Lib.hid g1; clear h1 z1 g1)))
  have R : Hid (NAt w3 w.heap.size a) := (NAt.grown ⟨23, H1.out⟩ G2.out (by simp)).grown G3.out (by simp)
  have Q : Hid (NAt w3 (w.heap.size + 1) b) := by
    have h := H2.out
    rw [Z1.out] at h
    exact NAt.grown ⟨23, h⟩ G3.out (by simp)
  have HB : Hid (Below w.heap.size w w3) := (below_of_grownBy G1.out).trans (((below_of_grownBy G2.out).mono (by have := Z1.out; omega)).trans ((below_of_grownBy G3.out).mono (by have := Z1.out; have := Z2.out; omega)))
  have Z : Hid (ZAt w3 (w.heap.size + 2)) := by
    have h := H3.out
    rw [Z2.out, Z1.out] at h
    exact h
  rw [show w2.heap.size = w.heap.size + 2 from by rw [Z2.out, Z1.out], show w1.heap.size = w.heap.size + 1 from Z1.out]
  have HLTwheapsize : Hid (w.heap.size < w3.heap.size) := R.out.lt
  have HLTwheapsizep1 : Hid (w.heap.size + 1 < w3.heap.size) := Q.out.lt
  have HLTwheapsizep2 : Hid (w.heap.size + 2 < w3.heap.size) := Z.out.lt
  clear H1 Z1 G1 H2 Z2 G2 H3 Z3 G3
  refine region_split (fun a' W => NAt W (w.heap.size + 2) n ∧ Below w.heap.size w W ∧ a' = ⟨#[vN a, vN b, .pointer (some ⟨w.heap.size, 0, none⟩), .pointer (some ⟨w.heap.size + 1, 0, none⟩), .pointer (some ⟨w.heap.size + 2, 0, none⟩), vN a, .agg (ics x).toArray, vN b, .agg (ics y).toArray, .agg (ics z).toArray, vN n], []⟩) ?_ ?_
  · refine startW (fun j => j == 6) (w3.heap.size) (by kernel_rfl) ?_
    obtain ⟨D1, hD1⟩ : ∃ D, D = w3.drew := ⟨_, rfl⟩
    rw [← hD1]
    have HLD1 : Hid (w3.heap.size ≤ D1.heap.size) := Lib.hid (by rw [hD1]; exact Nat.le_refl _)
    have HBD1 : Hid (Below w.heap.size w D1) := Lib.hid (by rw [hD1]; exact below_drewN' HB.out 1)
    have R0D1 : Hid (NAt D1 (w.heap.size) a) := Lib.hid (by rw [hD1]; exact R.out)
    have R1D1 : Hid (NAt D1 (w.heap.size + 1) b) := Lib.hid (by rw [hD1]; exact Q.out)
    have Z0D1 : Hid (ZAt D1 (w.heap.size + 2)) := Lib.hid (by rw [hD1]; exact Z.out)
    clear hD1
    refine takeT (i := 0) (oi := { dst := some 5, op := Op.load 23 (Operand.tmp 2), type := 23, pos := "ref.go:130", after := #[], guard := none }) (vN a) rfl (by kernel_rfl) (by kernel_rfl) (by kernel_rfl) (by kernel_rfl) (by kernel_rfl) (fun _ _ _ h => nomatch h.1) (by rfl) (fun w' hk => exec_load23 (.tmp 2) rfl (w.heap.size) a rfl (R0D1.out.below hk HLTwheapsize.out)) ?_
    simp only [Act.put, List.setIfInBounds_toArray, List.set_cons_zero, List.set_cons_succ]
    refine takeT (i := 2) (oi := { dst := some 7, op := Op.load 23 (Operand.tmp 3), type := 23, pos := "ref.go:130", after := #[], guard := none }) (vN b) rfl (by kernel_rfl) (by kernel_rfl) (by kernel_rfl) (by kernel_rfl) (by kernel_rfl) (fun _ _ _ h => nomatch h.1) (by rfl) (fun w' hk => exec_load23 (.tmp 3) rfl (w.heap.size + 1) b rfl (R1D1.out.below hk HLTwheapsizep1.out)) ?_
    simp only [Act.put, List.setIfInBounds_toArray, List.set_cons_zero, List.set_cons_succ]
    refine callW (i := 1) (oi := { dst := some 6, op := Op.call { callee := Callee.value (Operand.func 68), args := #[Operand.tmp 5], argTypes := #[23] }, type := 65, pos := "ref.go:130", after := #[{ on := 0, ground := Ground.data }], guard := none }) rfl (by kernel_rfl) (by rfl) (exec_callL 68 [.tmp 5] #[23] rfl [vN a] rfl (CG68 _)) ((HA.out D1).mono ?_)
    rintro eW2 W2 ⟨rfl, hbW2⟩
    refine ⟨_, rfl, fun _ => hbW2.mono HLD1.out, ?_⟩
    have HBW2 : Hid (Below w.heap.size w W2) := Lib.hid (HBD1.out.trans (hbW2.mono HBD1.out.size))
    have HLW2 : Hid (w3.heap.size ≤ W2.heap.size) := Lib.hid (Nat.le_trans HLD1.out hbW2.size)
    have R0D1_W2 := Lib.hid (R0D1.out.keep hbW2)
    have R1D1_W2 := Lib.hid (R1D1.out.keep hbW2)
    have Z0D1_W2 := Lib.hid (Z0D1.out.keep hbW2)
    clear hbW2 HBD1 HLD1 R0D1 R1D1 Z0D1
    simp only [Act.put, List.setIfInBounds_toArray, List.set_cons_zero, List.set_cons_succ]
    refine callW (i := 3) (oi := { dst := some 8, op := Op.call { callee := Callee.value (Operand.func 68), args := #[Operand.tmp 7], argTypes := #[23] }, type := 65, pos := "ref.go:130", after := #[{ on := 2, ground := Ground.data }, { on := 1, ground := Ground.chain }], guard := none }) rfl (by kernel_rfl) (by rfl) (exec_callL 68 [.tmp 7] #[23] rfl [vN b] rfl (CG68 _)) ((HBb.out W2).mono ?_)
    rintro eW3 W3 ⟨rfl, hbW3⟩
    refine ⟨_, rfl, fun _ => hbW3.mono HLW2.out, ?_⟩
    have HBW3 : Hid (Below w.heap.size w W3) := Lib.hid (HBW2.out.trans (hbW3.mono HBW2.out.size))
    have HLW3 : Hid (w3.heap.size ≤ W3.heap.size) := Lib.hid (Nat.le_trans HLW2.out hbW3.size)
    have R0D1_W3 := Lib.hid (R0D1_W2.out.keep hbW3)
    have R1D1_W3 := Lib.hid (R1D1_W2.out.keep hbW3)
    have Z0D1_W3 := Lib.hid (Z0D1_W2.out.keep hbW3)
    clear hbW3 HBW2 HLW2 R0D1_W2 R1D1_W2 Z0D1_W2
    simp only [Act.put, List.setIfInBounds_toArray, List.set_cons_zero, List.set_cons_succ]
    refine callW (i := 4) (oi := { dst := some 9, op := Op.call { callee := Callee.value (Operand.func 71), args := #[Operand.tmp 6, Operand.tmp 8], argTypes := #[65, 65] }, type := 65, pos := "ref.go:130", after := #[{ on := 1, ground := Ground.data }, { on := 3, ground := Ground.data }, { on := 3, ground := Ground.chain }], guard := none }) rfl (by kernel_rfl) (by rfl) (exec_callL 71 [.tmp 6, .tmp 8] #[65, 65] rfl [.agg (ics x).toArray, .agg (ics y).toArray] rfl (CG71 _)) ((HP.out W3).mono ?_)
    rintro eW4 W4 ⟨rfl, hbW4⟩
    refine ⟨_, rfl, fun _ => hbW4.mono HLW3.out, ?_⟩
    have HBW4 : Hid (Below w.heap.size w W4) := Lib.hid (HBW3.out.trans (hbW4.mono HBW3.out.size))
    have HLW4 : Hid (w3.heap.size ≤ W4.heap.size) := Lib.hid (Nat.le_trans HLW3.out hbW4.size)
    have R0D1_W4 := Lib.hid (R0D1_W3.out.keep hbW4)
    have R1D1_W4 := Lib.hid (R1D1_W3.out.keep hbW4)
    have Z0D1_W4 := Lib.hid (Z0D1_W3.out.keep hbW4)
    clear hbW4 HBW3 HLW3 R0D1_W3 R1D1_W3 Z0D1_W3
    simp only [Act.put, List.setIfInBounds_toArray, List.set_cons_zero, List.set_cons_succ]
    refine callW (i := 5) (oi := { dst := some 10, op := Op.call { callee := Callee.value (Operand.func 67), args := #[Operand.tmp 9], argTypes := #[65] }, type := 23, pos := "ref.go:130", after := #[{ on := 4, ground := Ground.data }, { on := 4, ground := Ground.chain }], guard := none }) rfl (by kernel_rfl) (by rfl) (exec_callL 67 [.tmp 9] #[65] rfl [.agg (ics z).toArray] rfl (CG67 _)) ((HC.out W4).mono ?_)
    rintro eW5 W5 ⟨rfl, hbW5⟩
    refine ⟨_, rfl, fun _ => hbW5.mono HLW4.out, ?_⟩
    have HBW5 : Hid (Below w.heap.size w W5) := Lib.hid (HBW4.out.trans (hbW5.mono HBW4.out.size))
    have HLW5 : Hid (w3.heap.size ≤ W5.heap.size) := Lib.hid (Nat.le_trans HLW4.out hbW5.size)
    have R0D1_W5 := Lib.hid (R0D1_W4.out.keep hbW5)
    have R1D1_W5 := Lib.hid (R1D1_W4.out.keep hbW5)
    have Z0D1_W5 := Lib.hid (Z0D1_W4.out.keep hbW5)
    clear hbW5 HBW4 HLW4 R0D1_W4 R1D1_W4 Z0D1_W4
    simp only [Act.put, List.setIfInBounds_toArray, List.set_cons_zero, List.set_cons_succ]
    refine storeW_all (i := 6) (oi := { dst := none, op := Op.store 23 (Operand.tmp 4) (Operand.tmp 10), type := 0, pos := "ref.go:130", after := #[{ on := 5, ground := Ground.data }, { on := 5, ground := Ground.chain }, { on := 0, ground := Ground.phase }, { on := 1, ground := Ground.phase }, { on := 2, ground := Ground.phase }, { on := 3, ground := Ground.phase }, { on := 4, ground := Ground.phase }, { on := 5, ground := Ground.phase }], guard := none }) rfl (by kernel_rfl) (by rfl) 23 (.tmp 4) (.tmp 10) rfl (w.heap.size + 2) rfl (bcs (enc n)).toArray rfl 23 _ Z0D1_W5.out (by rw [List.size_toArray, bcs_enc_len]; exact size23) (by rw [List.size_toArray, bcs_enc_len]; rfl) (bcs_one _) rfl ?_
    intro W6 hhW6 hgW6 hzW6
    simp only [Act.put, List.setIfInBounds_toArray, List.set_cons_zero, List.set_cons_succ]
    have R0D1_W6 := Lib.hid (R0D1_W5.out.grown hgW6 (by simp))
    have R1D1_W6 := Lib.hid (R1D1_W5.out.grown hgW6 (by simp))
    have Swheapsizep2_W6 : Hid (NAt W6 (w.heap.size + 2) n) := Lib.hid ⟨23, hhW6⟩
    have HBW6 : Hid (Below w.heap.size w W6) := Lib.hid (HBW5.out.grown hgW6 HBW5.out.size (fun r hr => by injection hr with hr; omega))
    have HLW6 : Hid (w3.heap.size ≤ W6.heap.size) := Lib.hid (Nat.le_trans HLW5.out hgW6.size)
    clear hhW6 hgW6 hzW6 HBW5 HLW5 R0D1_W5 R1D1_W5 Z0D1_W5
    refine doneW (by kernel_rfl) ⟨rfl, ?_⟩ _
    exact ⟨Swheapsizep2_W6.out, HBW6.out, rfl⟩
  rintro a' W ⟨⟨t, ht⟩, hb, rfl⟩
  have HH := Lib.hid ht
  have HBel := Lib.hid hb
  clear ht hb R Q HB Z HLTwheapsize HLTwheapsizep1 HLTwheapsizep2 HA HBb HP HC
  go_wp2
  refine bodyPost_ret (results_cell_row rfl _ _ (w.heap.size + 2) t (bcs (enc n)).toArray _ _ rfl HH.out under23 rfl (by rw [List.size_toArray, bcs_enc_len]; exact size23)) rfl ?_
  exact ⟨rfl, HBel.out⟩

set_option maxHeartbeats 1000000 in
theorem rSub_core (a b n : Nat) (x y z : List Nat) (w : World)
    (HA : Hid (∀ w, Calls Try.prog 68 #[vN a] w (Gives (.agg (ics x).toArray) w))) (HBb : Hid (∀ w, Calls Try.prog 68 #[vN b] w (Gives (.agg (ics y).toArray) w))) (HP : Hid (∀ w, Calls Try.prog 73 #[.agg (ics x).toArray, .agg (ics y).toArray] w (Gives (.agg (ics z).toArray) w))) (HC : Hid (∀ w, Calls Try.prog 67 #[.agg (ics z).toArray] w (Gives (vN n) w))) :
    Calls Try.prog 22 #[vN a, vN b] w (Gives (vN n) w) := by
  go_enter Try.func22, Try.ntmps22
  go_wp2_with (first | ((with_reducible show wpList _ _ _ (⟨some 2, .box 23 (.tmp 0), _, _, _, _⟩ :: _) _ _); go_must (refine wpList_box_row rfl 23 (.tmp 0) rfl (bcs (enc a)).toArray rfl ?_; intro w1 h1 z1 g1; have H1 := Lib.hid h1; have Z1 := Lib.hid z1; have G1 := Lib.hid g1; clear h1 z1 g1)) | ((with_reducible show wpList _ _ _ (⟨some 3, .box 23 (.tmp 1), _, _, _, _⟩ :: _) _ _); go_must (refine wpList_box_row rfl 23 (.tmp 1) rfl (bcs (enc b)).toArray rfl ?_; intro w2 h1 z1 g1; have H2 := Lib.hid h1; have Z2 := Lib.hid z1; have G2 := Lib.hid g1; clear h1 z1 g1)) | ((with_reducible show wpList _ _ _ (⟨some 4, .alloc 23, _, _, _, _⟩ :: _) _ _); go_must (refine wpList_alloc_row rfl 23 rfl (.agg (zbs 32)) zero23 ?_; intro w3 h1 z1 g1; have H3 := Lib.hid h1; have Z3 := Lib.hid z1; have G3 := Lib.hid g1; clear h1 z1 g1)))
  have R : Hid (NAt w3 w.heap.size a) := (NAt.grown ⟨23, H1.out⟩ G2.out (by simp)).grown G3.out (by simp)
  have Q : Hid (NAt w3 (w.heap.size + 1) b) := by
    have h := H2.out
    rw [Z1.out] at h
    exact NAt.grown ⟨23, h⟩ G3.out (by simp)
  have HB : Hid (Below w.heap.size w w3) := (below_of_grownBy G1.out).trans (((below_of_grownBy G2.out).mono (by have := Z1.out; omega)).trans ((below_of_grownBy G3.out).mono (by have := Z1.out; have := Z2.out; omega)))
  have Z : Hid (ZAt w3 (w.heap.size + 2)) := by
    have h := H3.out
    rw [Z2.out, Z1.out] at h
    exact h
  rw [show w2.heap.size = w.heap.size + 2 from by rw [Z2.out, Z1.out], show w1.heap.size = w.heap.size + 1 from Z1.out]
  have HLTwheapsize : Hid (w.heap.size < w3.heap.size) := R.out.lt
  have HLTwheapsizep1 : Hid (w.heap.size + 1 < w3.heap.size) := Q.out.lt
  have HLTwheapsizep2 : Hid (w.heap.size + 2 < w3.heap.size) := Z.out.lt
  clear H1 Z1 G1 H2 Z2 G2 H3 Z3 G3
  refine region_split (fun a' W => NAt W (w.heap.size + 2) n ∧ Below w.heap.size w W ∧ a' = ⟨#[vN a, vN b, .pointer (some ⟨w.heap.size, 0, none⟩), .pointer (some ⟨w.heap.size + 1, 0, none⟩), .pointer (some ⟨w.heap.size + 2, 0, none⟩), vN a, .agg (ics x).toArray, vN b, .agg (ics y).toArray, .agg (ics z).toArray, vN n], []⟩) ?_ ?_
  · refine startW (fun j => j == 6) (w3.heap.size) (by kernel_rfl) ?_
    obtain ⟨D7, hD7⟩ : ∃ D, D = w3.drew := ⟨_, rfl⟩
    rw [← hD7]
    have HLD7 : Hid (w3.heap.size ≤ D7.heap.size) := Lib.hid (by rw [hD7]; exact Nat.le_refl _)
    have HBD7 : Hid (Below w.heap.size w D7) := Lib.hid (by rw [hD7]; exact below_drewN' HB.out 1)
    have R0D7 : Hid (NAt D7 (w.heap.size) a) := Lib.hid (by rw [hD7]; exact R.out)
    have R1D7 : Hid (NAt D7 (w.heap.size + 1) b) := Lib.hid (by rw [hD7]; exact Q.out)
    have Z0D7 : Hid (ZAt D7 (w.heap.size + 2)) := Lib.hid (by rw [hD7]; exact Z.out)
    clear hD7
    refine takeT (i := 0) (oi := { dst := some 5, op := Op.load 23 (Operand.tmp 2), type := 23, pos := "ref.go:133", after := #[], guard := none }) (vN a) rfl (by kernel_rfl) (by kernel_rfl) (by kernel_rfl) (by kernel_rfl) (by kernel_rfl) (fun _ _ _ h => nomatch h.1) (by rfl) (fun w' hk => exec_load23 (.tmp 2) rfl (w.heap.size) a rfl (R0D7.out.below hk HLTwheapsize.out)) ?_
    simp only [Act.put, List.setIfInBounds_toArray, List.set_cons_zero, List.set_cons_succ]
    refine takeT (i := 2) (oi := { dst := some 7, op := Op.load 23 (Operand.tmp 3), type := 23, pos := "ref.go:133", after := #[], guard := none }) (vN b) rfl (by kernel_rfl) (by kernel_rfl) (by kernel_rfl) (by kernel_rfl) (by kernel_rfl) (fun _ _ _ h => nomatch h.1) (by rfl) (fun w' hk => exec_load23 (.tmp 3) rfl (w.heap.size + 1) b rfl (R1D7.out.below hk HLTwheapsizep1.out)) ?_
    simp only [Act.put, List.setIfInBounds_toArray, List.set_cons_zero, List.set_cons_succ]
    refine callW (i := 1) (oi := { dst := some 6, op := Op.call { callee := Callee.value (Operand.func 68), args := #[Operand.tmp 5], argTypes := #[23] }, type := 65, pos := "ref.go:133", after := #[{ on := 0, ground := Ground.data }], guard := none }) rfl (by kernel_rfl) (by rfl) (exec_callL 68 [.tmp 5] #[23] rfl [vN a] rfl (CG68 _)) ((HA.out D7).mono ?_)
    rintro eW8 W8 ⟨rfl, hbW8⟩
    refine ⟨_, rfl, fun _ => hbW8.mono HLD7.out, ?_⟩
    have HBW8 : Hid (Below w.heap.size w W8) := Lib.hid (HBD7.out.trans (hbW8.mono HBD7.out.size))
    have HLW8 : Hid (w3.heap.size ≤ W8.heap.size) := Lib.hid (Nat.le_trans HLD7.out hbW8.size)
    have R0D7_W8 := Lib.hid (R0D7.out.keep hbW8)
    have R1D7_W8 := Lib.hid (R1D7.out.keep hbW8)
    have Z0D7_W8 := Lib.hid (Z0D7.out.keep hbW8)
    clear hbW8 HBD7 HLD7 R0D7 R1D7 Z0D7
    simp only [Act.put, List.setIfInBounds_toArray, List.set_cons_zero, List.set_cons_succ]
    refine callW (i := 3) (oi := { dst := some 8, op := Op.call { callee := Callee.value (Operand.func 68), args := #[Operand.tmp 7], argTypes := #[23] }, type := 65, pos := "ref.go:133", after := #[{ on := 2, ground := Ground.data }, { on := 1, ground := Ground.chain }], guard := none }) rfl (by kernel_rfl) (by rfl) (exec_callL 68 [.tmp 7] #[23] rfl [vN b] rfl (CG68 _)) ((HBb.out W8).mono ?_)
    rintro eW9 W9 ⟨rfl, hbW9⟩
    refine ⟨_, rfl, fun _ => hbW9.mono HLW8.out, ?_⟩
    have HBW9 : Hid (Below w.heap.size w W9) := Lib.hid (HBW8.out.trans (hbW9.mono HBW8.out.size))
    have HLW9 : Hid (w3.heap.size ≤ W9.heap.size) := Lib.hid (Nat.le_trans HLW8.out hbW9.size)
    have R0D7_W9 := Lib.hid (R0D7_W8.out.keep hbW9)
    have R1D7_W9 := Lib.hid (R1D7_W8.out.keep hbW9)
    have Z0D7_W9 := Lib.hid (Z0D7_W8.out.keep hbW9)
    clear hbW9 HBW8 HLW8 R0D7_W8 R1D7_W8 Z0D7_W8
    simp only [Act.put, List.setIfInBounds_toArray, List.set_cons_zero, List.set_cons_succ]
    refine callW (i := 4) (oi := { dst := some 9, op := Op.call { callee := Callee.value (Operand.func 73), args := #[Operand.tmp 6, Operand.tmp 8], argTypes := #[65, 65] }, type := 65, pos := "ref.go:133", after := #[{ on := 1, ground := Ground.data }, { on := 3, ground := Ground.data }, { on := 3, ground := Ground.chain }], guard := none }) rfl (by kernel_rfl) (by rfl) (exec_callL 73 [.tmp 6, .tmp 8] #[65, 65] rfl [.agg (ics x).toArray, .agg (ics y).toArray] rfl (CG73 _)) ((HP.out W9).mono ?_)
    rintro eW10 W10 ⟨rfl, hbW10⟩
    refine ⟨_, rfl, fun _ => hbW10.mono HLW9.out, ?_⟩
    have HBW10 : Hid (Below w.heap.size w W10) := Lib.hid (HBW9.out.trans (hbW10.mono HBW9.out.size))
    have HLW10 : Hid (w3.heap.size ≤ W10.heap.size) := Lib.hid (Nat.le_trans HLW9.out hbW10.size)
    have R0D7_W10 := Lib.hid (R0D7_W9.out.keep hbW10)
    have R1D7_W10 := Lib.hid (R1D7_W9.out.keep hbW10)
    have Z0D7_W10 := Lib.hid (Z0D7_W9.out.keep hbW10)
    clear hbW10 HBW9 HLW9 R0D7_W9 R1D7_W9 Z0D7_W9
    simp only [Act.put, List.setIfInBounds_toArray, List.set_cons_zero, List.set_cons_succ]
    refine callW (i := 5) (oi := { dst := some 10, op := Op.call { callee := Callee.value (Operand.func 67), args := #[Operand.tmp 9], argTypes := #[65] }, type := 23, pos := "ref.go:133", after := #[{ on := 4, ground := Ground.data }, { on := 4, ground := Ground.chain }], guard := none }) rfl (by kernel_rfl) (by rfl) (exec_callL 67 [.tmp 9] #[65] rfl [.agg (ics z).toArray] rfl (CG67 _)) ((HC.out W10).mono ?_)
    rintro eW11 W11 ⟨rfl, hbW11⟩
    refine ⟨_, rfl, fun _ => hbW11.mono HLW10.out, ?_⟩
    have HBW11 : Hid (Below w.heap.size w W11) := Lib.hid (HBW10.out.trans (hbW11.mono HBW10.out.size))
    have HLW11 : Hid (w3.heap.size ≤ W11.heap.size) := Lib.hid (Nat.le_trans HLW10.out hbW11.size)
    have R0D7_W11 := Lib.hid (R0D7_W10.out.keep hbW11)
    have R1D7_W11 := Lib.hid (R1D7_W10.out.keep hbW11)
    have Z0D7_W11 := Lib.hid (Z0D7_W10.out.keep hbW11)
    clear hbW11 HBW10 HLW10 R0D7_W10 R1D7_W10 Z0D7_W10
    simp only [Act.put, List.setIfInBounds_toArray, List.set_cons_zero, List.set_cons_succ]
    refine storeW_all (i := 6) (oi := { dst := none, op := Op.store 23 (Operand.tmp 4) (Operand.tmp 10), type := 0, pos := "ref.go:133", after := #[{ on := 5, ground := Ground.data }, { on := 5, ground := Ground.chain }, { on := 0, ground := Ground.phase }, { on := 1, ground := Ground.phase }, { on := 2, ground := Ground.phase }, { on := 3, ground := Ground.phase }, { on := 4, ground := Ground.phase }, { on := 5, ground := Ground.phase }], guard := none }) rfl (by kernel_rfl) (by rfl) 23 (.tmp 4) (.tmp 10) rfl (w.heap.size + 2) rfl (bcs (enc n)).toArray rfl 23 _ Z0D7_W11.out (by rw [List.size_toArray, bcs_enc_len]; exact size23) (by rw [List.size_toArray, bcs_enc_len]; rfl) (bcs_one _) rfl ?_
    intro W12 hhW12 hgW12 hzW12
    simp only [Act.put, List.setIfInBounds_toArray, List.set_cons_zero, List.set_cons_succ]
    have R0D7_W12 := Lib.hid (R0D7_W11.out.grown hgW12 (by simp))
    have R1D7_W12 := Lib.hid (R1D7_W11.out.grown hgW12 (by simp))
    have Swheapsizep2_W12 : Hid (NAt W12 (w.heap.size + 2) n) := Lib.hid ⟨23, hhW12⟩
    have HBW12 : Hid (Below w.heap.size w W12) := Lib.hid (HBW11.out.grown hgW12 HBW11.out.size (fun r hr => by injection hr with hr; omega))
    have HLW12 : Hid (w3.heap.size ≤ W12.heap.size) := Lib.hid (Nat.le_trans HLW11.out hgW12.size)
    clear hhW12 hgW12 hzW12 HBW11 HLW11 R0D7_W11 R1D7_W11 Z0D7_W11
    refine doneW (by kernel_rfl) ⟨rfl, ?_⟩ _
    exact ⟨Swheapsizep2_W12.out, HBW12.out, rfl⟩
  rintro a' W ⟨⟨t, ht⟩, hb, rfl⟩
  have HH := Lib.hid ht
  have HBel := Lib.hid hb
  clear ht hb R Q HB Z HLTwheapsize HLTwheapsizep1 HLTwheapsizep2 HA HBb HP HC
  go_wp2
  refine bodyPost_ret (results_cell_row rfl _ _ (w.heap.size + 2) t (bcs (enc n)).toArray _ _ rfl HH.out under23 rfl (by rw [List.size_toArray, bcs_enc_len]; exact size23)) rfl ?_
  exact ⟨rfl, HBel.out⟩

set_option maxHeartbeats 1000000 in
theorem rMul_core (a b n : Nat) (x y z : List Nat) (w : World)
    (HA : Hid (∀ w, Calls Try.prog 68 #[vN a] w (Gives (.agg (ics x).toArray) w))) (HBb : Hid (∀ w, Calls Try.prog 68 #[vN b] w (Gives (.agg (ics y).toArray) w))) (HP : Hid (∀ w, Calls Try.prog 75 #[.agg (ics x).toArray, .agg (ics y).toArray] w (Gives (.agg (ics z).toArray) w))) (HC : Hid (∀ w, Calls Try.prog 67 #[.agg (ics z).toArray] w (Gives (vN n) w))) :
    Calls Try.prog 26 #[vN a, vN b] w (Gives (vN n) w) := by
  go_enter Try.func26, Try.ntmps26
  go_wp2_with (first | ((with_reducible show wpList _ _ _ (⟨some 2, .box 23 (.tmp 0), _, _, _, _⟩ :: _) _ _); go_must (refine wpList_box_row rfl 23 (.tmp 0) rfl (bcs (enc a)).toArray rfl ?_; intro w1 h1 z1 g1; have H1 := Lib.hid h1; have Z1 := Lib.hid z1; have G1 := Lib.hid g1; clear h1 z1 g1)) | ((with_reducible show wpList _ _ _ (⟨some 3, .box 23 (.tmp 1), _, _, _, _⟩ :: _) _ _); go_must (refine wpList_box_row rfl 23 (.tmp 1) rfl (bcs (enc b)).toArray rfl ?_; intro w2 h1 z1 g1; have H2 := Lib.hid h1; have Z2 := Lib.hid z1; have G2 := Lib.hid g1; clear h1 z1 g1)) | ((with_reducible show wpList _ _ _ (⟨some 4, .alloc 23, _, _, _, _⟩ :: _) _ _); go_must (refine wpList_alloc_row rfl 23 rfl (.agg (zbs 32)) zero23 ?_; intro w3 h1 z1 g1; have H3 := Lib.hid h1; have Z3 := Lib.hid z1; have G3 := Lib.hid g1; clear h1 z1 g1)))
  have R : Hid (NAt w3 w.heap.size a) := (NAt.grown ⟨23, H1.out⟩ G2.out (by simp)).grown G3.out (by simp)
  have Q : Hid (NAt w3 (w.heap.size + 1) b) := by
    have h := H2.out
    rw [Z1.out] at h
    exact NAt.grown ⟨23, h⟩ G3.out (by simp)
  have HB : Hid (Below w.heap.size w w3) := (below_of_grownBy G1.out).trans (((below_of_grownBy G2.out).mono (by have := Z1.out; omega)).trans ((below_of_grownBy G3.out).mono (by have := Z1.out; have := Z2.out; omega)))
  have Z : Hid (ZAt w3 (w.heap.size + 2)) := by
    have h := H3.out
    rw [Z2.out, Z1.out] at h
    exact h
  rw [show w2.heap.size = w.heap.size + 2 from by rw [Z2.out, Z1.out], show w1.heap.size = w.heap.size + 1 from Z1.out]
  have HLTwheapsize : Hid (w.heap.size < w3.heap.size) := R.out.lt
  have HLTwheapsizep1 : Hid (w.heap.size + 1 < w3.heap.size) := Q.out.lt
  have HLTwheapsizep2 : Hid (w.heap.size + 2 < w3.heap.size) := Z.out.lt
  clear H1 Z1 G1 H2 Z2 G2 H3 Z3 G3
  refine region_split (fun a' W => NAt W (w.heap.size + 2) n ∧ Below w.heap.size w W ∧ a' = ⟨#[vN a, vN b, .pointer (some ⟨w.heap.size, 0, none⟩), .pointer (some ⟨w.heap.size + 1, 0, none⟩), .pointer (some ⟨w.heap.size + 2, 0, none⟩), vN a, .agg (ics x).toArray, vN b, .agg (ics y).toArray, .agg (ics z).toArray, vN n], []⟩) ?_ ?_
  · refine startW (fun j => j == 6) (w3.heap.size) (by kernel_rfl) ?_
    obtain ⟨D13, hD13⟩ : ∃ D, D = w3.drew := ⟨_, rfl⟩
    rw [← hD13]
    have HLD13 : Hid (w3.heap.size ≤ D13.heap.size) := Lib.hid (by rw [hD13]; exact Nat.le_refl _)
    have HBD13 : Hid (Below w.heap.size w D13) := Lib.hid (by rw [hD13]; exact below_drewN' HB.out 1)
    have R0D13 : Hid (NAt D13 (w.heap.size) a) := Lib.hid (by rw [hD13]; exact R.out)
    have R1D13 : Hid (NAt D13 (w.heap.size + 1) b) := Lib.hid (by rw [hD13]; exact Q.out)
    have Z0D13 : Hid (ZAt D13 (w.heap.size + 2)) := Lib.hid (by rw [hD13]; exact Z.out)
    clear hD13
    refine takeT (i := 0) (oi := { dst := some 5, op := Op.load 23 (Operand.tmp 2), type := 23, pos := "ref.go:139", after := #[], guard := none }) (vN a) rfl (by kernel_rfl) (by kernel_rfl) (by kernel_rfl) (by kernel_rfl) (by kernel_rfl) (fun _ _ _ h => nomatch h.1) (by rfl) (fun w' hk => exec_load23 (.tmp 2) rfl (w.heap.size) a rfl (R0D13.out.below hk HLTwheapsize.out)) ?_
    simp only [Act.put, List.setIfInBounds_toArray, List.set_cons_zero, List.set_cons_succ]
    refine takeT (i := 2) (oi := { dst := some 7, op := Op.load 23 (Operand.tmp 3), type := 23, pos := "ref.go:139", after := #[], guard := none }) (vN b) rfl (by kernel_rfl) (by kernel_rfl) (by kernel_rfl) (by kernel_rfl) (by kernel_rfl) (fun _ _ _ h => nomatch h.1) (by rfl) (fun w' hk => exec_load23 (.tmp 3) rfl (w.heap.size + 1) b rfl (R1D13.out.below hk HLTwheapsizep1.out)) ?_
    simp only [Act.put, List.setIfInBounds_toArray, List.set_cons_zero, List.set_cons_succ]
    refine callW (i := 1) (oi := { dst := some 6, op := Op.call { callee := Callee.value (Operand.func 68), args := #[Operand.tmp 5], argTypes := #[23] }, type := 65, pos := "ref.go:139", after := #[{ on := 0, ground := Ground.data }], guard := none }) rfl (by kernel_rfl) (by rfl) (exec_callL 68 [.tmp 5] #[23] rfl [vN a] rfl (CG68 _)) ((HA.out D13).mono ?_)
    rintro eW14 W14 ⟨rfl, hbW14⟩
    refine ⟨_, rfl, fun _ => hbW14.mono HLD13.out, ?_⟩
    have HBW14 : Hid (Below w.heap.size w W14) := Lib.hid (HBD13.out.trans (hbW14.mono HBD13.out.size))
    have HLW14 : Hid (w3.heap.size ≤ W14.heap.size) := Lib.hid (Nat.le_trans HLD13.out hbW14.size)
    have R0D13_W14 := Lib.hid (R0D13.out.keep hbW14)
    have R1D13_W14 := Lib.hid (R1D13.out.keep hbW14)
    have Z0D13_W14 := Lib.hid (Z0D13.out.keep hbW14)
    clear hbW14 HBD13 HLD13 R0D13 R1D13 Z0D13
    simp only [Act.put, List.setIfInBounds_toArray, List.set_cons_zero, List.set_cons_succ]
    refine callW (i := 3) (oi := { dst := some 8, op := Op.call { callee := Callee.value (Operand.func 68), args := #[Operand.tmp 7], argTypes := #[23] }, type := 65, pos := "ref.go:139", after := #[{ on := 2, ground := Ground.data }, { on := 1, ground := Ground.chain }], guard := none }) rfl (by kernel_rfl) (by rfl) (exec_callL 68 [.tmp 7] #[23] rfl [vN b] rfl (CG68 _)) ((HBb.out W14).mono ?_)
    rintro eW15 W15 ⟨rfl, hbW15⟩
    refine ⟨_, rfl, fun _ => hbW15.mono HLW14.out, ?_⟩
    have HBW15 : Hid (Below w.heap.size w W15) := Lib.hid (HBW14.out.trans (hbW15.mono HBW14.out.size))
    have HLW15 : Hid (w3.heap.size ≤ W15.heap.size) := Lib.hid (Nat.le_trans HLW14.out hbW15.size)
    have R0D13_W15 := Lib.hid (R0D13_W14.out.keep hbW15)
    have R1D13_W15 := Lib.hid (R1D13_W14.out.keep hbW15)
    have Z0D13_W15 := Lib.hid (Z0D13_W14.out.keep hbW15)
    clear hbW15 HBW14 HLW14 R0D13_W14 R1D13_W14 Z0D13_W14
    simp only [Act.put, List.setIfInBounds_toArray, List.set_cons_zero, List.set_cons_succ]
    refine callW (i := 4) (oi := { dst := some 9, op := Op.call { callee := Callee.value (Operand.func 75), args := #[Operand.tmp 6, Operand.tmp 8], argTypes := #[65, 65] }, type := 65, pos := "ref.go:139", after := #[{ on := 1, ground := Ground.data }, { on := 3, ground := Ground.data }, { on := 3, ground := Ground.chain }], guard := none }) rfl (by kernel_rfl) (by rfl) (exec_callL 75 [.tmp 6, .tmp 8] #[65, 65] rfl [.agg (ics x).toArray, .agg (ics y).toArray] rfl (CG75 _)) ((HP.out W15).mono ?_)
    rintro eW16 W16 ⟨rfl, hbW16⟩
    refine ⟨_, rfl, fun _ => hbW16.mono HLW15.out, ?_⟩
    have HBW16 : Hid (Below w.heap.size w W16) := Lib.hid (HBW15.out.trans (hbW16.mono HBW15.out.size))
    have HLW16 : Hid (w3.heap.size ≤ W16.heap.size) := Lib.hid (Nat.le_trans HLW15.out hbW16.size)
    have R0D13_W16 := Lib.hid (R0D13_W15.out.keep hbW16)
    have R1D13_W16 := Lib.hid (R1D13_W15.out.keep hbW16)
    have Z0D13_W16 := Lib.hid (Z0D13_W15.out.keep hbW16)
    clear hbW16 HBW15 HLW15 R0D13_W15 R1D13_W15 Z0D13_W15
    simp only [Act.put, List.setIfInBounds_toArray, List.set_cons_zero, List.set_cons_succ]
    refine callW (i := 5) (oi := { dst := some 10, op := Op.call { callee := Callee.value (Operand.func 67), args := #[Operand.tmp 9], argTypes := #[65] }, type := 23, pos := "ref.go:139", after := #[{ on := 4, ground := Ground.data }, { on := 4, ground := Ground.chain }], guard := none }) rfl (by kernel_rfl) (by rfl) (exec_callL 67 [.tmp 9] #[65] rfl [.agg (ics z).toArray] rfl (CG67 _)) ((HC.out W16).mono ?_)
    rintro eW17 W17 ⟨rfl, hbW17⟩
    refine ⟨_, rfl, fun _ => hbW17.mono HLW16.out, ?_⟩
    have HBW17 : Hid (Below w.heap.size w W17) := Lib.hid (HBW16.out.trans (hbW17.mono HBW16.out.size))
    have HLW17 : Hid (w3.heap.size ≤ W17.heap.size) := Lib.hid (Nat.le_trans HLW16.out hbW17.size)
    have R0D13_W17 := Lib.hid (R0D13_W16.out.keep hbW17)
    have R1D13_W17 := Lib.hid (R1D13_W16.out.keep hbW17)
    have Z0D13_W17 := Lib.hid (Z0D13_W16.out.keep hbW17)
    clear hbW17 HBW16 HLW16 R0D13_W16 R1D13_W16 Z0D13_W16
    simp only [Act.put, List.setIfInBounds_toArray, List.set_cons_zero, List.set_cons_succ]
    refine storeW_all (i := 6) (oi := { dst := none, op := Op.store 23 (Operand.tmp 4) (Operand.tmp 10), type := 0, pos := "ref.go:139", after := #[{ on := 5, ground := Ground.data }, { on := 5, ground := Ground.chain }, { on := 0, ground := Ground.phase }, { on := 1, ground := Ground.phase }, { on := 2, ground := Ground.phase }, { on := 3, ground := Ground.phase }, { on := 4, ground := Ground.phase }, { on := 5, ground := Ground.phase }], guard := none }) rfl (by kernel_rfl) (by rfl) 23 (.tmp 4) (.tmp 10) rfl (w.heap.size + 2) rfl (bcs (enc n)).toArray rfl 23 _ Z0D13_W17.out (by rw [List.size_toArray, bcs_enc_len]; exact size23) (by rw [List.size_toArray, bcs_enc_len]; rfl) (bcs_one _) rfl ?_
    intro W18 hhW18 hgW18 hzW18
    simp only [Act.put, List.setIfInBounds_toArray, List.set_cons_zero, List.set_cons_succ]
    have R0D13_W18 := Lib.hid (R0D13_W17.out.grown hgW18 (by simp))
    have R1D13_W18 := Lib.hid (R1D13_W17.out.grown hgW18 (by simp))
    have Swheapsizep2_W18 : Hid (NAt W18 (w.heap.size + 2) n) := Lib.hid ⟨23, hhW18⟩
    have HBW18 : Hid (Below w.heap.size w W18) := Lib.hid (HBW17.out.grown hgW18 HBW17.out.size (fun r hr => by injection hr with hr; omega))
    have HLW18 : Hid (w3.heap.size ≤ W18.heap.size) := Lib.hid (Nat.le_trans HLW17.out hgW18.size)
    clear hhW18 hgW18 hzW18 HBW17 HLW17 R0D13_W17 R1D13_W17 Z0D13_W17
    refine doneW (by kernel_rfl) ⟨rfl, ?_⟩ _
    exact ⟨Swheapsizep2_W18.out, HBW18.out, rfl⟩
  rintro a' W ⟨⟨t, ht⟩, hb, rfl⟩
  have HH := Lib.hid ht
  have HBel := Lib.hid hb
  clear ht hb R Q HB Z HLTwheapsize HLTwheapsizep1 HLTwheapsizep2 HA HBb HP HC
  go_wp2
  refine bodyPost_ret (results_cell_row rfl _ _ (w.heap.size + 2) t (bcs (enc n)).toArray _ _ rfl HH.out under23 rfl (by rw [List.size_toArray, bcs_enc_len]; exact size23)) rfl ?_
  exact ⟨rfl, HBel.out⟩

set_option maxHeartbeats 1000000 in
theorem rPow_core (a b n : Nat) (x : List Nat) (GD : List Nat → Prop) (w : World)
    (HA : Hid (∀ w, Calls Try.prog 68 #[vN a] w (Gives (.agg (ics x).toArray) w))) (HP : Hid (∀ w, Calls Try.prog 77 #[.agg (ics x).toArray, vN b] w (fun e w' => ∃ o, GD o ∧ e = .returned (.agg (ics o).toArray) ∧ Below w.heap.size w w'))) (HC : Hid (∀ z, GD z → ∀ w, Calls Try.prog 67 #[.agg (ics z).toArray] w (Gives (vN n) w))) :
    Calls Try.prog 28 #[vN a, vN b] w (Gives (vN n) w) := by
  go_enter Try.func28, Try.ntmps28
  go_wp2_with (first | ((with_reducible show wpList _ _ _ (⟨some 2, .box 23 (.tmp 0), _, _, _, _⟩ :: _) _ _); go_must (refine wpList_box_row rfl 23 (.tmp 0) rfl (bcs (enc a)).toArray rfl ?_; intro w1 h1 z1 g1; have H1 := Lib.hid h1; have Z1 := Lib.hid z1; have G1 := Lib.hid g1; clear h1 z1 g1)) | ((with_reducible show wpList _ _ _ (⟨some 3, .box 23 (.tmp 1), _, _, _, _⟩ :: _) _ _); go_must (refine wpList_box_row rfl 23 (.tmp 1) rfl (bcs (enc b)).toArray rfl ?_; intro w2 h1 z1 g1; have H2 := Lib.hid h1; have Z2 := Lib.hid z1; have G2 := Lib.hid g1; clear h1 z1 g1)) | ((with_reducible show wpList _ _ _ (⟨some 4, .alloc 23, _, _, _, _⟩ :: _) _ _); go_must (refine wpList_alloc_row rfl 23 rfl (.agg (zbs 32)) zero23 ?_; intro w3 h1 z1 g1; have H3 := Lib.hid h1; have Z3 := Lib.hid z1; have G3 := Lib.hid g1; clear h1 z1 g1)))
  have R : Hid (NAt w3 w.heap.size a) := (NAt.grown ⟨23, H1.out⟩ G2.out (by simp)).grown G3.out (by simp)
  have Q : Hid (NAt w3 (w.heap.size + 1) b) := by
    have h := H2.out
    rw [Z1.out] at h
    exact NAt.grown ⟨23, h⟩ G3.out (by simp)
  have HB : Hid (Below w.heap.size w w3) := (below_of_grownBy G1.out).trans (((below_of_grownBy G2.out).mono (by have := Z1.out; omega)).trans ((below_of_grownBy G3.out).mono (by have := Z1.out; have := Z2.out; omega)))
  have Z : Hid (ZAt w3 (w.heap.size + 2)) := by
    have h := H3.out
    rw [Z2.out, Z1.out] at h
    exact h
  rw [show w2.heap.size = w.heap.size + 2 from by rw [Z2.out, Z1.out], show w1.heap.size = w.heap.size + 1 from Z1.out]
  have HLTwheapsize : Hid (w.heap.size < w3.heap.size) := R.out.lt
  have HLTwheapsizep1 : Hid (w.heap.size + 1 < w3.heap.size) := Q.out.lt
  have HLTwheapsizep2 : Hid (w.heap.size + 2 < w3.heap.size) := Z.out.lt
  clear H1 Z1 G1 H2 Z2 G2 H3 Z3 G3
  refine region_split (fun a' W => ∃ z, NAt W (w.heap.size + 2) n ∧ Below w.heap.size w W ∧ a' = ⟨#[vN a, vN b, .pointer (some ⟨w.heap.size, 0, none⟩), .pointer (some ⟨w.heap.size + 1, 0, none⟩), .pointer (some ⟨w.heap.size + 2, 0, none⟩), vN a, .agg (ics x).toArray, vN b, .agg (ics z).toArray, vN n], []⟩) ?_ ?_
  · refine startW (fun j => j == 5) (w3.heap.size) (by kernel_rfl) ?_
    obtain ⟨D19, hD19⟩ : ∃ D, D = w3.drew := ⟨_, rfl⟩
    rw [← hD19]
    have HLD19 : Hid (w3.heap.size ≤ D19.heap.size) := Lib.hid (by rw [hD19]; exact Nat.le_refl _)
    have HBD19 : Hid (Below w.heap.size w D19) := Lib.hid (by rw [hD19]; exact below_drewN' HB.out 1)
    have R0D19 : Hid (NAt D19 (w.heap.size) a) := Lib.hid (by rw [hD19]; exact R.out)
    have R1D19 : Hid (NAt D19 (w.heap.size + 1) b) := Lib.hid (by rw [hD19]; exact Q.out)
    have Z0D19 : Hid (ZAt D19 (w.heap.size + 2)) := Lib.hid (by rw [hD19]; exact Z.out)
    clear hD19
    refine takeT (i := 0) (oi := { dst := some 5, op := Op.load 23 (Operand.tmp 2), type := 23, pos := "ref.go:154", after := #[], guard := none }) (vN a) rfl (by kernel_rfl) (by kernel_rfl) (by kernel_rfl) (by kernel_rfl) (by kernel_rfl) (fun _ _ _ h => nomatch h.1) (by rfl) (fun w' hk => exec_load23 (.tmp 2) rfl (w.heap.size) a rfl (R0D19.out.below hk HLTwheapsize.out)) ?_
    simp only [Act.put, List.setIfInBounds_toArray, List.set_cons_zero, List.set_cons_succ]
    refine takeT (i := 2) (oi := { dst := some 7, op := Op.load 23 (Operand.tmp 3), type := 23, pos := "ref.go:154", after := #[], guard := none }) (vN b) rfl (by kernel_rfl) (by kernel_rfl) (by kernel_rfl) (by kernel_rfl) (by kernel_rfl) (fun _ _ _ h => nomatch h.1) (by rfl) (fun w' hk => exec_load23 (.tmp 3) rfl (w.heap.size + 1) b rfl (R1D19.out.below hk HLTwheapsizep1.out)) ?_
    simp only [Act.put, List.setIfInBounds_toArray, List.set_cons_zero, List.set_cons_succ]
    refine callW (i := 1) (oi := { dst := some 6, op := Op.call { callee := Callee.value (Operand.func 68), args := #[Operand.tmp 5], argTypes := #[23] }, type := 65, pos := "ref.go:154", after := #[{ on := 0, ground := Ground.data }], guard := none }) rfl (by kernel_rfl) (by rfl) (exec_callL 68 [.tmp 5] #[23] rfl [vN a] rfl (CG68 _)) ((HA.out D19).mono ?_)
    rintro eW20 W20 ⟨rfl, hbW20⟩
    refine ⟨_, rfl, fun _ => hbW20.mono HLD19.out, ?_⟩
    have HBW20 : Hid (Below w.heap.size w W20) := Lib.hid (HBD19.out.trans (hbW20.mono HBD19.out.size))
    have HLW20 : Hid (w3.heap.size ≤ W20.heap.size) := Lib.hid (Nat.le_trans HLD19.out hbW20.size)
    have R0D19_W20 := Lib.hid (R0D19.out.keep hbW20)
    have R1D19_W20 := Lib.hid (R1D19.out.keep hbW20)
    have Z0D19_W20 := Lib.hid (Z0D19.out.keep hbW20)
    clear hbW20 HBD19 HLD19 R0D19 R1D19 Z0D19
    simp only [Act.put, List.setIfInBounds_toArray, List.set_cons_zero, List.set_cons_succ]
    refine callW (i := 3) (oi := { dst := some 8, op := Op.call { callee := Callee.value (Operand.func 77), args := #[Operand.tmp 6, Operand.tmp 7], argTypes := #[65, 23] }, type := 65, pos := "ref.go:154", after := #[{ on := 1, ground := Ground.data }, { on := 2, ground := Ground.data }, { on := 1, ground := Ground.chain }], guard := none }) rfl (by kernel_rfl) (by rfl) (exec_callL 77 [.tmp 6, .tmp 7] #[65, 23] rfl [.agg (ics x).toArray, vN b] rfl (CG77 _)) ((HP.out W20).mono ?_)
    rintro eW21 W21 ⟨z, hzG, rfl, hbW21⟩
    refine ⟨_, rfl, fun _ => hbW21.mono HLW20.out, ?_⟩
    have HBW21 : Hid (Below w.heap.size w W21) := Lib.hid (HBW20.out.trans (hbW21.mono HBW20.out.size))
    have HLW21 : Hid (w3.heap.size ≤ W21.heap.size) := Lib.hid (Nat.le_trans HLW20.out hbW21.size)
    have R0D19_W21 := Lib.hid (R0D19_W20.out.keep hbW21)
    have R1D19_W21 := Lib.hid (R1D19_W20.out.keep hbW21)
    have Z0D19_W21 := Lib.hid (Z0D19_W20.out.keep hbW21)
    clear hbW21 HBW20 HLW20 R0D19_W20 R1D19_W20 Z0D19_W20
    simp only [Act.put, List.setIfInBounds_toArray, List.set_cons_zero, List.set_cons_succ]
    refine callW (i := 4) (oi := { dst := some 9, op := Op.call { callee := Callee.value (Operand.func 67), args := #[Operand.tmp 8], argTypes := #[65] }, type := 23, pos := "ref.go:154", after := #[{ on := 3, ground := Ground.data }, { on := 3, ground := Ground.chain }], guard := none }) rfl (by kernel_rfl) (by rfl) (exec_callL 67 [.tmp 8] #[65] rfl [.agg (ics z).toArray] rfl (CG67 _)) ((HC.out z hzG W21).mono ?_)
    rintro eW22 W22 ⟨rfl, hbW22⟩
    refine ⟨_, rfl, fun _ => hbW22.mono HLW21.out, ?_⟩
    have HBW22 : Hid (Below w.heap.size w W22) := Lib.hid (HBW21.out.trans (hbW22.mono HBW21.out.size))
    have HLW22 : Hid (w3.heap.size ≤ W22.heap.size) := Lib.hid (Nat.le_trans HLW21.out hbW22.size)
    have R0D19_W22 := Lib.hid (R0D19_W21.out.keep hbW22)
    have R1D19_W22 := Lib.hid (R1D19_W21.out.keep hbW22)
    have Z0D19_W22 := Lib.hid (Z0D19_W21.out.keep hbW22)
    clear hbW22 HBW21 HLW21 R0D19_W21 R1D19_W21 Z0D19_W21
    simp only [Act.put, List.setIfInBounds_toArray, List.set_cons_zero, List.set_cons_succ]
    refine storeW_all (i := 5) (oi := { dst := none, op := Op.store 23 (Operand.tmp 4) (Operand.tmp 9), type := 0, pos := "ref.go:154", after := #[{ on := 4, ground := Ground.data }, { on := 4, ground := Ground.chain }, { on := 0, ground := Ground.phase }, { on := 1, ground := Ground.phase }, { on := 2, ground := Ground.phase }, { on := 3, ground := Ground.phase }, { on := 4, ground := Ground.phase }], guard := none }) rfl (by kernel_rfl) (by rfl) 23 (.tmp 4) (.tmp 9) rfl (w.heap.size + 2) rfl (bcs (enc n)).toArray rfl 23 _ Z0D19_W22.out (by rw [List.size_toArray, bcs_enc_len]; exact size23) (by rw [List.size_toArray, bcs_enc_len]; rfl) (bcs_one _) rfl ?_
    intro W23 hhW23 hgW23 hzW23
    simp only [Act.put, List.setIfInBounds_toArray, List.set_cons_zero, List.set_cons_succ]
    have R0D19_W23 := Lib.hid (R0D19_W22.out.grown hgW23 (by simp))
    have R1D19_W23 := Lib.hid (R1D19_W22.out.grown hgW23 (by simp))
    have Swheapsizep2_W23 : Hid (NAt W23 (w.heap.size + 2) n) := Lib.hid ⟨23, hhW23⟩
    have HBW23 : Hid (Below w.heap.size w W23) := Lib.hid (HBW22.out.grown hgW23 HBW22.out.size (fun r hr => by injection hr with hr; omega))
    have HLW23 : Hid (w3.heap.size ≤ W23.heap.size) := Lib.hid (Nat.le_trans HLW22.out hgW23.size)
    clear hhW23 hgW23 hzW23 HBW22 HLW22 R0D19_W22 R1D19_W22 Z0D19_W22
    refine doneW (by kernel_rfl) ⟨rfl, ?_⟩ _
    exact ⟨_, Swheapsizep2_W23.out, HBW23.out, rfl⟩
  rintro a' W ⟨z, ⟨t, ht⟩, hb, rfl⟩
  have HH := Lib.hid ht
  have HBel := Lib.hid hb
  clear ht hb R Q HB Z HLTwheapsize HLTwheapsizep1 HLTwheapsizep2 HA HP HC
  go_wp2
  refine bodyPost_ret (results_cell_row rfl _ _ (w.heap.size + 2) t (bcs (enc n)).toArray _ _ rfl HH.out under23 rfl (by rw [List.size_toArray, bcs_enc_len]; exact size23)) rfl ?_
  exact ⟨rfl, HBel.out⟩

set_option maxHeartbeats 1000000 in
theorem rInv_core (a e n : Nat) (w : World)
    (HO : Hid (∀ w, Calls Try.prog 64 #[.int .i64 2, .int .i64 0] w (Gives (vN e) w))) (HP : Hid (∀ w, Calls Try.prog 28 #[vN a, vN e] w (Gives (vN n) w))) :
    Calls Try.prog 30 #[vN a] w (Gives (vN n) w) := by
  go_enter Try.func30, Try.ntmps30
  go_wp2_with (first | ((with_reducible show wpList _ _ _ (⟨some 1, .box 23 (.tmp 0), _, _, _, _⟩ :: _) _ _); go_must (refine wpList_box_row rfl 23 (.tmp 0) rfl (bcs (enc a)).toArray rfl ?_; intro w1 h1 z1 g1; have H1 := Lib.hid h1; have Z1 := Lib.hid z1; have G1 := Lib.hid g1; clear h1 z1 g1)) | ((with_reducible show wpList _ _ _ (⟨some 2, .alloc 23, _, _, _, _⟩ :: _) _ _); go_must (refine wpList_alloc_row rfl 23 rfl (.agg (zbs 32)) zero23 ?_; intro w2 h1 z1 g1; have H2 := Lib.hid h1; have Z2 := Lib.hid z1; have G2 := Lib.hid g1; clear h1 z1 g1)))
  have R : Hid (NAt w2 w.heap.size a) := NAt.grown ⟨23, H1.out⟩ G2.out (by simp)
  have HB : Hid (Below w.heap.size w w2) := (below_of_grownBy G1.out).trans ((below_of_grownBy G2.out).mono (by have := Z1.out; omega))
  have Z : Hid (ZAt w2 (w.heap.size + 1)) := by
    have h := H2.out
    rw [Z1.out] at h
    exact h
  rw [show w1.heap.size = w.heap.size + 1 from Z1.out]
  have HLTwheapsize : Hid (w.heap.size < w2.heap.size) := R.out.lt
  have HLTwheapsizep1 : Hid (w.heap.size + 1 < w2.heap.size) := Z.out.lt
  clear H1 Z1 G1 H2 Z2 G2
  refine region_split (fun a' W => NAt W (w.heap.size + 1) n ∧ Below w.heap.size w W ∧ a' = ⟨#[vN a, .pointer (some ⟨w.heap.size, 0, none⟩), .pointer (some ⟨w.heap.size + 1, 0, none⟩), vN a, vN e, vN n], []⟩) ?_ ?_
  · refine startW (fun j => j == 3) (w2.heap.size) (by kernel_rfl) ?_
    obtain ⟨D24, hD24⟩ : ∃ D, D = w2.drew := ⟨_, rfl⟩
    rw [← hD24]
    have HLD24 : Hid (w2.heap.size ≤ D24.heap.size) := Lib.hid (by rw [hD24]; exact Nat.le_refl _)
    have HBD24 : Hid (Below w.heap.size w D24) := Lib.hid (by rw [hD24]; exact below_drewN' HB.out 1)
    have R0D24 : Hid (NAt D24 (w.heap.size) a) := Lib.hid (by rw [hD24]; exact R.out)
    have Z0D24 : Hid (ZAt D24 (w.heap.size + 1)) := Lib.hid (by rw [hD24]; exact Z.out)
    clear hD24
    refine takeT (i := 0) (oi := { dst := some 3, op := Op.load 23 (Operand.tmp 1), type := 23, pos := "ref.go:175", after := #[], guard := none }) (vN a) rfl (by kernel_rfl) (by kernel_rfl) (by kernel_rfl) (by kernel_rfl) (by kernel_rfl) (fun _ _ _ h => nomatch h.1) (by rfl) (fun w' hk => exec_load23 (.tmp 1) rfl (w.heap.size) a rfl (R0D24.out.below hk HLTwheapsize.out)) ?_
    simp only [Act.put, List.setIfInBounds_toArray, List.set_cons_zero, List.set_cons_succ]
    refine callW (i := 1) (oi := { dst := some 4, op := Op.call { callee := Callee.value (Operand.func 64), args := #[Operand.const (Value.int IntKind.i64 2), Operand.const (Value.int IntKind.i64 0)], argTypes := #[3, 3] }, type := 23, pos := "ref.go:175", after := #[], guard := none }) rfl (by kernel_rfl) (by rfl) (exec_callL 64 [.const (.int .i64 2), .const (.int .i64 0)] #[3, 3] rfl [.int .i64 2, .int .i64 0] rfl (CG64 _)) ((HO.out D24).mono ?_)
    rintro eW25 W25 ⟨rfl, hbW25⟩
    refine ⟨_, rfl, fun _ => hbW25.mono HLD24.out, ?_⟩
    have HBW25 : Hid (Below w.heap.size w W25) := Lib.hid (HBD24.out.trans (hbW25.mono HBD24.out.size))
    have HLW25 : Hid (w2.heap.size ≤ W25.heap.size) := Lib.hid (Nat.le_trans HLD24.out hbW25.size)
    have R0D24_W25 := Lib.hid (R0D24.out.keep hbW25)
    have Z0D24_W25 := Lib.hid (Z0D24.out.keep hbW25)
    clear hbW25 HBD24 HLD24 R0D24 Z0D24
    simp only [Act.put, List.setIfInBounds_toArray, List.set_cons_zero, List.set_cons_succ]
    refine callW (i := 2) (oi := { dst := some 5, op := Op.call { callee := Callee.value (Operand.func 28), args := #[Operand.tmp 3, Operand.tmp 4], argTypes := #[23, 23] }, type := 23, pos := "ref.go:175", after := #[{ on := 0, ground := Ground.data }, { on := 1, ground := Ground.data }, { on := 1, ground := Ground.chain }], guard := none }) rfl (by kernel_rfl) (by rfl) (exec_callL 28 [.tmp 3, .tmp 4] #[23, 23] rfl [vN a, vN e] rfl (CG28 _)) ((HP.out W25).mono ?_)
    rintro eW26 W26 ⟨rfl, hbW26⟩
    refine ⟨_, rfl, fun _ => hbW26.mono HLW25.out, ?_⟩
    have HBW26 : Hid (Below w.heap.size w W26) := Lib.hid (HBW25.out.trans (hbW26.mono HBW25.out.size))
    have HLW26 : Hid (w2.heap.size ≤ W26.heap.size) := Lib.hid (Nat.le_trans HLW25.out hbW26.size)
    have R0D24_W26 := Lib.hid (R0D24_W25.out.keep hbW26)
    have Z0D24_W26 := Lib.hid (Z0D24_W25.out.keep hbW26)
    clear hbW26 HBW25 HLW25 R0D24_W25 Z0D24_W25
    simp only [Act.put, List.setIfInBounds_toArray, List.set_cons_zero, List.set_cons_succ]
    refine storeW_all (i := 3) (oi := { dst := none, op := Op.store 23 (Operand.tmp 2) (Operand.tmp 5), type := 0, pos := "ref.go:175", after := #[{ on := 2, ground := Ground.data }, { on := 2, ground := Ground.chain }, { on := 0, ground := Ground.phase }, { on := 1, ground := Ground.phase }, { on := 2, ground := Ground.phase }], guard := none }) rfl (by kernel_rfl) (by rfl) 23 (.tmp 2) (.tmp 5) rfl (w.heap.size + 1) rfl (bcs (enc n)).toArray rfl 23 _ Z0D24_W26.out (by rw [List.size_toArray, bcs_enc_len]; exact size23) (by rw [List.size_toArray, bcs_enc_len]; rfl) (bcs_one _) rfl ?_
    intro W27 hhW27 hgW27 hzW27
    simp only [Act.put, List.setIfInBounds_toArray, List.set_cons_zero, List.set_cons_succ]
    have R0D24_W27 := Lib.hid (R0D24_W26.out.grown hgW27 (by simp))
    have Swheapsizep1_W27 : Hid (NAt W27 (w.heap.size + 1) n) := Lib.hid ⟨23, hhW27⟩
    have HBW27 : Hid (Below w.heap.size w W27) := Lib.hid (HBW26.out.grown hgW27 HBW26.out.size (fun r hr => by injection hr with hr; omega))
    have HLW27 : Hid (w2.heap.size ≤ W27.heap.size) := Lib.hid (Nat.le_trans HLW26.out hgW27.size)
    clear hhW27 hgW27 hzW27 HBW26 HLW26 R0D24_W26 Z0D24_W26
    refine doneW (by kernel_rfl) ⟨rfl, ?_⟩ _
    exact ⟨Swheapsizep1_W27.out, HBW27.out, rfl⟩
  rintro a' W ⟨⟨t, ht⟩, hb, rfl⟩
  have HH := Lib.hid ht
  have HBel := Lib.hid hb
  clear ht hb R HB Z HLTwheapsize HLTwheapsizep1 HO HP
  go_wp2
  refine bodyPost_ret (results_cell_row rfl _ _ (w.heap.size + 1) t (bcs (enc n)).toArray _ _ rfl HH.out under23 rfl (by rw [List.size_toArray, bcs_enc_len]; exact size23)) rfl ?_
  exact ⟨rfl, HBel.out⟩

set_option maxHeartbeats 400000 in
theorem rSame_core (a b r s : Nat) (c : Bool) (w : World) (H1 : Hid (∀ w, Calls Try.prog 14 #[vN a] w (Gives (vN r) w))) (H2 : Hid (∀ w, Calls Try.prog 14 #[vN b] w (Gives (vN s) w))) (HE : Hid (∀ w, (Op.equalIn 10000 23 (vN r) (vN s)).run Try.prog w = .ok c w)) :
    Calls Try.prog 34 #[vN a, vN b] w (Gives (.bool c) w) := by
  go_enter Try.func34, Try.ntmps34
  go_wp2_with (first | ((with_reducible show wpList _ _ _ (⟨some 2, .box 23 (.tmp 0), _, _, _, _⟩ :: _) _ _); go_must (refine wpList_box_row rfl 23 (.tmp 0) rfl (bcs (enc a)).toArray rfl ?_; intro w3 h1 z1 g1; have H3 := Lib.hid h1; have Z3 := Lib.hid z1; have G3 := Lib.hid g1; clear h1 z1 g1)) | ((with_reducible show wpList _ _ _ (⟨some 3, .box 23 (.tmp 1), _, _, _, _⟩ :: _) _ _); go_must (refine wpList_box_row rfl 23 (.tmp 1) rfl (bcs (enc b)).toArray rfl ?_; intro w4 h1 z1 g1; have H4 := Lib.hid h1; have Z4 := Lib.hid z1; have G4 := Lib.hid g1; clear h1 z1 g1)))
  have R : Hid (NAt w4 w.heap.size a) := NAt.grown ⟨23, H3.out⟩ G4.out (by simp)
  have S : Hid (NAt w4 (w.heap.size + 1) b) := by
    have h := H4.out
    rw [Z3.out] at h
    exact ⟨23, h⟩
  have HB : Hid (Below w.heap.size w w4) := (below_of_grownBy G3.out).trans ((below_of_grownBy G4.out).mono (by have := Z3.out; omega))
  rw [show w3.heap.size = w.heap.size + 1 from Z3.out]
  clear H3 Z3 G3 H4 Z4 G4
  refine region_wq (by kernel_rfl) (by kernel_rfl) ?_
  refine wq_load rfl (.tmp 2) rfl (w.heap.size) a rfl R.out ?_
  simp only [Act.put, List.setIfInBounds_toArray, List.set_cons_zero, List.set_cons_succ]
  refine wq_call rfl 14 [.tmp 5] #[23] rfl [vN a] rfl (CG14 _) (vN r) H1.out ?_
  simp only [Act.put, List.setIfInBounds_toArray, List.set_cons_zero, List.set_cons_succ]
  refine wq_load rfl (.tmp 3) rfl (w.heap.size + 1) b rfl S.out ?_
  simp only [Act.put, List.setIfInBounds_toArray, List.set_cons_zero, List.set_cons_succ]
  refine wq_call rfl 14 [.tmp 7] #[23] rfl [vN b] rfl (CG14 _) (vN s) H2.out ?_
  simp only [Act.put, List.setIfInBounds_toArray, List.set_cons_zero, List.set_cons_succ]
  refine wq_eq rfl (.tmp 6) (.tmp 8) rfl r s rfl rfl c HE.out ?_
  simp only [Act.put, List.setIfInBounds_toArray, List.set_cons_zero, List.set_cons_succ]
  refine wq_assign rfl (.tmp 9) rfl (.bool c) rfl ?_
  simp only [Act.put, List.setIfInBounds_toArray, List.set_cons_zero, List.set_cons_succ]
  refine wq_nil ?_
  intro w2 hb
  have HB2 : Hid (Below w.heap.size w w2) := HB.out.trans (hb.mono HB.out.size)
  clear hb HB
  go_wp2
  go_ret
  exact ⟨rfl, HB2.out⟩

set_option maxHeartbeats 400000 in
theorem rNeg_core (a r : Nat) (w : World) (H25 : Hid (∀ w, Calls Try.prog 22 #[vN 0, vN a] w (Gives (vN r) w))) :
    Calls Try.prog 24 #[vN a] w (Gives (vN r) w) := by
  go_enter Try.func24, Try.ntmps24
  go_wp2_with (first | ((with_reducible show wpList _ _ _ (⟨some 1, .box 23 (.tmp 0), _, _, _, _⟩ :: _) _ _); go_must (refine wpList_box_row rfl 23 (.tmp 0) rfl (bcs (enc a)).toArray rfl ?_; intro w1 h1 z1 g1; have H1 := Lib.hid h1; have Z1 := Lib.hid z1; have G1 := Lib.hid g1; clear h1 z1 g1)) | ((with_reducible show wpList _ _ _ (⟨some 2, .alloc 23, _, _, _, _⟩ :: _) _ _); go_must (refine wpList_alloc_row rfl 23 rfl (.agg (zbs 32)) zero23 ?_; intro w2 h1 z1 g1; have H2 := Lib.hid h1; have Z2 := Lib.hid z1; have G2 := Lib.hid g1; clear h1 z1 g1; have R : Hid (NAt w2 w.heap.size a) := NAt.grown ⟨23, H1.out⟩ G2.out (by simp))) | ((with_reducible show wpList _ _ _ (⟨_, .build 23 _, _, _, _, _⟩ :: _) _ _); go_must (refine wpList_exec rfl (vN 0) (exec_build0 rfl) ?_)) | ((with_reducible show wpList _ _ _ (⟨_, .load 23 (.tmp 1), _, _, _, _⟩ :: _) _ _); go_must (refine wpList_exec rfl (vN a) (exec_load23 (.tmp 1) rfl (w.heap.size) a rfl R.out) ?_)))
  have HB : Hid (Below w.heap.size w w2) := (below_of_grownBy G1.out).trans ((below_of_grownBy G2.out).mono (by have := Z1.out; omega))
  have HR2 : Hid (w2.heap[w.heap.size + 1]? = some (.cells (zbs 32) 23 (0, 0))) := by
    have h := H2.out
    rw [Z1.out] at h
    exact h
  rw [show w1.heap.size = w.heap.size + 1 from Z1.out]
  clear H1 Z1 G1 H2 Z2 G2 R
  refine (H25.out _).mono ?_
  rintro e x4 ⟨rfl, hb⟩
  have HRow : Hid (x4.heap[w.heap.size + 1]? = some (.cells (zbs 32) 23 (0, 0))) := (hb.block _ (Array.getElem?_eq_some_iff.1 HR2.out).1).trans HR2.out
  have HBel : Hid (Below w.heap.size w x4) := HB.out.trans (hb.mono HB.out.size)
  clear hb HB HR2 H25
  go_wp2_with ((with_reducible show wpList _ _ _ (⟨none, .store 23 (.tmp 2) (.tmp 5), _, _, _, _⟩ :: _) _ _); go_must (refine wpList_store_all rfl 23 (.tmp 2) (.tmp 5) rfl (w.heap.size + 1) rfl (bcs (enc r)).toArray rfl 23 _ HRow.out (by rw [List.size_toArray, bcs_enc_len]; exact size23) (by rw [List.size_toArray, bcs_enc_len]; rfl) (bcs_one _) ?_; intro x5 hh hg hz; have HH := Lib.hid hh; have HG := Lib.hid hg; clear hh hg hz))
  refine bodyPost_ret (results_cell_row rfl _ _ (w.heap.size + 1) 23 (bcs (enc r)).toArray _ _ rfl HH.out under23 rfl (by rw [List.size_toArray, bcs_enc_len]; exact size23)) rfl ?_
  exact ⟨rfl, HBel.out.grown HG.out HBel.out.size (fun r hr => by injection hr; omega)⟩

set_option maxHeartbeats 400000 in
theorem rOdd_core (a r : Nat) (b : Bool) (w : World) (H11 : Hid (∀ w, Calls Try.prog 14 #[vN a] w (Gives (vN r) w))) (HI : Hid (∀ w, (Instr.index 23 (vN r) (.int .i64 0)).run Try.prog w = .ok (.int .u8 ((r % 256 : Nat) : Int)) w))
    (HE : Hid (((((r % 256 : Nat) : Int)).tmod 2 == 1) = b)) :
    Calls Try.prog 32 #[vN a] w (Gives (.bool b) w) := by
  have hlt : r % 256 < 256 := Nat.mod_lt _ (by omega)
  generalize r % 256 = x at *
  go_enter Try.func32, Try.ntmps32
  go_wp2_with (first | ((with_reducible show wpList _ _ _ (⟨some 1, .box 23 (.tmp 0), _, _, _, _⟩ :: _) _ _); go_must (refine wpList_box_row rfl 23 (.tmp 0) rfl (bcs (enc a)).toArray rfl ?_; intro w1 h1 z1 g1; have H1 := Lib.hid h1; have Z1 := Lib.hid z1; have G1 := Lib.hid g1; clear h1 z1 g1; have R : Hid (NAt w1 w.heap.size a) := ⟨23, H1.out⟩)) | ((with_reducible show wpList _ _ _ (⟨_, .load 23 (.tmp 1), _, _, _, _⟩ :: _) _ _); go_must (refine wpList_exec rfl (vN a) (exec_load23 (.tmp 1) rfl (w.heap.size) a rfl R.out) ?_)))
  have HB : Hid (Below w.heap.size w w1) := below_of_grownBy G1.out
  clear H1 Z1 G1 R
  refine (H11.out _).mono ?_
  rintro e x4 ⟨rfl, hb⟩
  have HBel : Hid (Below w.heap.size w x4) := HB.out.trans (hb.mono HB.out.size)
  clear hb HB H11
  go_wp2_with ((with_reducible show wpList _ _ _ (⟨_, .index 23 (.tmp 4) _, _, _, _, _⟩ :: _) _ _); go_must (refine wpList_exec rfl (.int .u8 (x : Int)) (exec_index0 _ _ rfl rfl (HI.out _)) ?_))
  go_ret
  refine ⟨?_, HBel.out⟩
  exact congrArg (fun x => Ending.returned (.bool x)) HE.out
end Go.Proofs.Ytgdimnbdnepbgaa
/- The reference's shifted. No statement is proved here. -/
namespace Go.Proofs.Ytgdimnbdnepbgaa
open Go.RowKit
set_option linter.unusedVariables false
set_option maxRecDepth 40000
set_option linter.unusedSimpArgs false

theorem half_step (v i : Nat) : v / 2 / 256 ^ i % 256 = v / 256 ^ i % 256 / 2 + 128 * (v / 256 ^ (i + 1) % 256 % 2) := by
  rw [Nat.pow_succ, ← Nat.div_div_eq_div_mul, Nat.div_div_eq_div_mul, Nat.mul_comm, ← Nat.div_div_eq_div_mul]
  omega
theorem half_last (v : Nat) (hv : v < TT) : v / 2 / 256 ^ 31 % 256 = v / 256 ^ 31 % 256 / 2 := by
  unfold TT at hv
  rw [Nat.div_div_eq_div_mul, Nat.mul_comm, ← Nat.div_div_eq_div_mul]
  have : v / 256 ^ 31 < 256 := by omega
  omega
/-- The bytes below i are halved. -/
def Mix (v i : Nat) (l : List UInt8) : Prop := ∀ j, j < 32 → (l.getD j 0).toNat = (if j < i then v / 2 else v) / 256 ^ j % 256
theorem Mix.next {v i : Nat} {l : List UInt8} (h : Mix v i l) (hl : l.length = 32) (hi : i < 32) (c : Nat) (hc : c % 256 = v / 2 / 256 ^ i % 256) : Mix v (i + 1) (l.set i (UInt8.ofNat c)) := by
  intro j hj
  by_cases e : i = j
  · subst e
    rw [getD_set_eq8 _ _ _ (by omega), of_byte, if_pos (by omega), hc]
  · rw [getD_set_ne8 _ _ _ _ e, h j hj]
    by_cases e2 : j < i
    · rw [if_pos e2, if_pos (by omega)]
    · rw [if_neg e2, if_neg (by omega)]

set_option maxHeartbeats 2000000 in
theorem shifted_core (n k : Nat) (V : Nat) (hn : n < 200) (hk : k < 10) (HV : Hid (UInt8.ofNat (237 - n) :: (List.replicate 30 255 ++ [127]) = enc V)) (HT : Hid (V < TT)) (w : World) :
    Calls Try.prog 64 #[.int .i64 n, .int .i64 k] w (Gives (vN (V / 2 ^ k)) w) := by
  have hni : (n : Int) < 200 := by omega
  have hki : (k : Int) < 10 := by omega
  go_enter Try.func64, Try.ntmps64
  go_wp2_with (first | ((with_reducible show wpList _ _ _ (⟨some 4, .alloc 23, _, _, _, _⟩ :: _) _ _); go_must (refine wpList_alloc_row rfl 23 rfl (.agg (zbs 32)) zero23 ?_; intro w1 h1 z1 g1; have H1 := Lib.hid h1; have Z1 := Lib.hid z1; have G1 := Lib.hid g1; clear h1 z1 g1)) | ((with_reducible show wpList _ _ _ (⟨some 5, .alloc 23, _, _, _, _⟩ :: _) _ _); go_must (refine wpList_alloc_row rfl 23 rfl (.agg (zbs 32)) zero23 ?_; intro w2 h1 z1 g1; have H2 := Lib.hid h1; have G2 := Lib.hid g1; clear h1 z1 g1)))
  have S : Hid (Sz w (List.replicate 32 0) w2) := Sz.start H1.out Z1.out G1.out H2.out G2.out
  rw [show w1.heap.size = w.heap.size + 1 from Z1.out]
  clear H1 Z1 G1 H2 G2
  go_loopw [6] (fun i wr => ∃ m : Nat, ∃ l : List UInt8, m ≤ 32 ∧ i = .int .i64 m ∧ (∀ j, j < m → l.getD j 0 = 255) ∧ Sz w l wr) (fun i _ => 32 - (intOf i).toNat)
  case atStart => exact ⟨0, _, by omega, rfl, fun j hj => absurd hj (by omega), S.out⟩
  case round =>
    obtain ⟨m, l, hm, rfl, hv, hp⟩ := hrel
    have H := Lib.hid hp
    have HVL := Lib.hid hv
    clear hp S hv
    have HBL : Hid (l.length = 32) := H.out.b.1
    obtain ⟨t, ht⟩ := H.out.b.2
    have HTT := Lib.hid ht
    clear ht
    by_cases hlt : m < 32
    · have hmi : (m : Int) < 32 := by omega
      go_wp2_with (first | ((with_reducible show wpList _ _ _ (⟨none, .store 5 (.tmp 13) _, _, _, _, _⟩ :: _) _ _); go_must (refine wpList_store_one rfl 5 (.tmp 13) (.const (.int .u8 255)) rfl (w.heap.size + 1) m rfl .u8 _ rfl t _ HTT.out size5 (by simp only [List.size_toArray, bcs_len]; have := HBL.out; omega) ?_; intro x5 hh hg hz; have HH := Lib.hid hh; have HG := Lib.hid hg; clear hh hg hz)) | fail)
      have hh := HH.out
      rw [show Value.int IntKind.u8 255 = bc 255 from rfl, bcs_put] at hh
      refine ⟨⟨m + 1, _, by omega, by go_num, fun j hj => ?_, H.out.set HG.out (by rw [List.length_set]; exact HBL.out) hh⟩, by simp [intOf]; omega⟩
      by_cases e : m = j
      · subst e
        exact getD_set_eq8 _ _ _ (by have := HBL.out; omega)
      · rw [getD_set_ne8 _ _ _ _ e]
        exact HVL.out j (by omega)
    · obtain rfl : m = 32 := by omega
      have hsub : IntKind.u8.wrap (237 - (n : Int)) = ((237 - n : Nat) : Int) := by
        show (237 - (n : Int)) % 256 = _
        omega
      go_wp2_with (first | ((with_reducible show wpList _ _ _ (⟨none, .store 5 (.tmp 17) (.tmp 16), _, _, _, _⟩ :: _) _ _); go_must (refine wpList_store_one rfl 5 (.tmp 17) (.tmp 16) rfl (w.heap.size + 1) 0 rfl .u8 _ rfl t _ HTT.out size5 (by simp only [List.size_toArray, bcs_len]; have := HBL.out; omega) ?_; intro x5 hh hg hz; have HH := Lib.hid hh; have HG := Lib.hid hg; clear hh hg hz)) | ((with_reducible show wpList _ _ _ (⟨none, .store 5 (.tmp 18) _, _, _, _, _⟩ :: _) _ _); go_must (refine wpList_store_one rfl 5 (.tmp 18) (.const (.int .u8 127)) rfl (w.heap.size + 1) 31 rfl .u8 _ rfl t _ HH.out size5 (by simp only [List.size_toArray, bcs_len, Array.size_setIfInBounds]; have := HBL.out; omega) ?_; intro x6 hh hg hz; have HH2 := Lib.hid hh; have HG2 := Lib.hid hg; clear hh hg hz)) | fail)
      have S2 : Hid (Sz w (enc V) x6) := by
        have hh := HH2.out
        have e : Value.int IntKind.u8 ((237 - n : Nat) : Int) = bc (UInt8.ofNat (237 - n)) := by unfold bc; rw [of_byte, Nat.mod_eq_of_lt (by omega)]
        rw [show Value.int IntKind.u8 127 = bc 127 from rfl, e, bcs_put, bcs_put] at hh
        have hl : l = List.replicate 32 255 := by
          apply List.ext_getElem
          · rw [HBL.out]; rfl
          · intro i h1 h2
            have h := HVL.out i (by have := HBL.out; omega)
            rw [List.getD_eq_getElem?_getD, List.getElem?_eq_getElem h1] at h
            rw [List.getElem_replicate]
            exact h
        have e2 : (l.set 0 (UInt8.ofNat (237 - n))).set 31 127 = enc V := by rw [← HV.out, hl]; rfl
        have q := (H.out.set HG.out (l' := l.set 0 (UInt8.ofNat (237 - n))) (t := t) (by rw [List.length_set]; exact HBL.out) (by have h := HH.out; rw [e, bcs_put] at h; exact h)).set HG2.out (by rw [List.length_set, List.length_set]; exact HBL.out) hh
        rw [e2] at q
        exact q
      clear HH HG HH2 HG2 H HVL HTT HBL hsub
      simp only [Act.put]
      go_loopw [1, 7] (fun kk _ wr => ∃ r : Nat, r ≤ k ∧ kk = .int .i64 r ∧ Sz w (enc (V / 2 ^ (k - r))) wr) (fun kk _ _ => (intOf kk).toNat)
      case atStart => exact ⟨k, by omega, rfl, by rw [Nat.sub_self, Nat.pow_zero, Nat.div_one]; exact S2.out⟩
      case round =>
        obtain ⟨r, hr, rfl, hp⟩ := hrel
        have H := Lib.hid hp
        clear hp S2
        have HVT : Hid (V / 2 ^ (k - r) < TT) := Lib.hid (Nat.lt_of_le_of_lt (Nat.div_le_self _ _) HT.out)
        by_cases hr0 : r = 0
        · subst hr0
          have H := H.out
          rw [Nat.sub_zero] at H
          have H := Lib.hid H
          obtain ⟨L, hL⟩ : ∃ L, L = enc (V / 2 ^ k) := ⟨_, rfl⟩
          have HLE : Hid (Value.agg (bcs L).toArray = vN (V / 2 ^ k)) := by rw [hL]; rfl
          rw [← hL] at H
          have HBL : Hid (L.length = 32) := H.out.b.1
          obtain ⟨t, ht⟩ := H.out.b.2
          have HTT := Lib.hid ht
          clear ht hL
          go_wp2_with (first | ((with_reducible show wpList _ _ _ (⟨_, .load 23 (.tmp 5), _, _, _, _⟩ :: _) _ _); go_must (refine wpList_load_arr rfl 23 (.tmp 5) rfl (w.heap.size + 1) 0 rfl (bcs L) (fun i u hu => by rw [Nat.zero_add]; exact row_cells HTT.out i u (by simpa using hu)) _ under23 rfl (by rw [bcs_len, HBL.out]; exact size23) ?_)) | ((with_reducible show wpList _ _ _ (⟨none, .store 23 (.tmp 4) (.tmp 49), _, _, _, _⟩ :: _) _ _); go_must (refine wpList_store_all rfl 23 (.tmp 4) (.tmp 49) rfl (w.heap.size) rfl (bcs L).toArray rfl 23 _ H.out.res (by rw [List.size_toArray, bcs_len, HBL.out]; exact size23) (by rw [List.size_toArray, bcs_len, HBL.out]; rfl) (bcs_one _) ?_; intro x5 hh hg hz; have HH := Lib.hid hh; have HG := Lib.hid hg; clear hh hg hz)) | fail)
          refine bodyPost_ret (results_cell_row rfl _ _ (w.heap.size) 23 (bcs L).toArray _ _ rfl HH.out under23 rfl (by rw [List.size_toArray, bcs_len, HBL.out]; exact size23)) rfl ?_
          exact ⟨by rw [HLE.out], H.out.bel.grown HG.out H.out.bel.size (fun r hr => by injection hr; omega)⟩
        · have hri : (0 : Int) < (r : Int) := by omega
          have hrk : (r : Int) < 10 := by omega
          have HNX : Hid (V / 2 ^ (k - r) / 2 = V / 2 ^ (k - (r - 1))) := by rw [Nat.div_div_eq_div_mul, ← Nat.pow_succ, show (k - r).succ = k - (r - 1) from by omega]; exact Lib.hid rfl
          generalize V / 2 ^ (k - r) = v at *
          go_wp2_with fail
          rw [show decide (0 < r) = true from decide_eq_true (by omega)]
          go_loopw [7] (fun j wi => ∃ i : Nat, ∃ l : List UInt8, i ≤ 32 ∧ j = .int .i64 i ∧ Mix v i l ∧ Sz w l wi) (fun j _ => 32 - (intOf j).toNat)
          case atStart => exact ⟨0, _, by omega, rfl, fun j hj => by rw [if_neg (by omega)]; exact enc_byte v HVT.out j, H.out⟩
          case round =>
            obtain ⟨i, l, hi, rfl, hm, hp⟩ := hrel
            have H1 := Lib.hid hp
            have HM := Lib.hid hm
            clear hp H hm
            have HBL : Hid (l.length = 32) := H1.out.b.1
            obtain ⟨t, ht⟩ := H1.out.b.2
            have HTT := Lib.hid ht
            clear ht
            by_cases hlt : i < 32
            · have hii : (i : Int) < 32 := by omega
              have c0 := H1.out.b.cell i hlt
              generalize hb : (l.getD i 0).toNat = b at c0
              have HB := Lib.hid hb
              clear hb
              have HB256 : Hid (b < 256) := by rw [← HB.out]; exact Lib.hid (UInt8.toNat_lt _)
              have HE : Hid (Value.int IntKind.u8 ((b : Int) / 2 % 256) = bc (UInt8.ofNat (b / 2))) := by
                unfold bc
                rw [of_byte]
                exact Lib.hid (by simp)
              have HH2 : Hid (b / 2 % 256 = b / 2) := by have := HB256.out; exact Lib.hid (by omega)
              by_cases h31 : i < 31
              · have h31i : (i : Int) < 31 := by omega
                generalize hb1 : (l.getD (i + 1) 0).toNat = b1
                have HB1 := Lib.hid hb1
                clear hb1
                have hst := half_step v i
                rw [← (by have h := HM.out i hlt; rw [if_neg (by omega)] at h; exact h : (l.getD i 0).toNat = v / 256 ^ i % 256), ← (by have h := HM.out (i + 1) (by omega); rw [if_neg (by omega)] at h; exact h : (l.getD (i + 1) 0).toNat = v / 256 ^ (i + 1) % 256), HB.out, HB1.out] at hst
                have HST := Lib.hid hst
                clear hst
                by_cases hp1 : b1 % 2 = 1
                · have hpt : ((b1 : Int) % 2 == 1) = true := by
                    rw [show ((b1 : Int)) % 2 = ((b1 % 2 : Nat) : Int) from rfl, hp1]; rfl
                  have HE3 : Hid (Value.int IntKind.u8 (((b : Int) / 2 + 128) % 256) = bc (UInt8.ofNat (b / 2 + 128))) := by
                    unfold bc
                    rw [of_byte]
                    exact Lib.hid (by simp)
                  go_wp2_with (first | ((with_reducible show wpList _ _ _ (⟨none, .store 5 (.tmp 32) (.tmp 31), _, _, _, _⟩ :: _) _ _); go_must (refine wpList_store_one rfl 5 (.tmp 32) (.tmp 31) rfl (w.heap.size + 1) i rfl .u8 _ rfl t _ HTT.out size5 (by simp only [List.size_toArray, bcs_len]; have := HBL.out; omega) ?_; intro x5 hh hg hz; rw [HE.out, bcs_put] at hh; have HT5 := Lib.hid hh; have H2 := Lib.hid (H1.out.set hg (by rw [List.length_set]; exact HBL.out) hh); clear hh hg hz; have c0' := H2.out.b.cell i hlt; rw [getD_set_eq8 _ _ _ (by have := HBL.out; omega), of_byte, HH2.out] at c0'; have c1 := H2.out.b.cell (i + 1) (by omega); rw [getD_set_ne8 _ _ _ _ (by omega), HB1.out] at c1)) | ((with_reducible show wpList _ _ _ (⟨none, .store 5 (.tmp 48) (.tmp 47), _, _, _, _⟩ :: _) _ _); go_must (refine wpList_store_one rfl 5 (.tmp 48) (.tmp 47) rfl (w.heap.size + 1) i rfl .u8 _ rfl t _ HT5.out size5 (by simp only [List.size_toArray, bcs_len, List.length_set]; have := HBL.out; omega) ?_; intro x6 hh hg hz; rw [HE3.out, bcs_put, List.set_set] at hh; have H3 := Lib.hid (H2.out.set hg (by rw [List.length_set]; exact HBL.out) hh); clear hh hg hz)) | fail)
                  exact ⟨⟨i + 1, _, by omega, by go_num, HM.out.next HBL.out hlt (b / 2 + 128) (by rw [HST.out, hp1]; have := HB256.out; omega), H3.out⟩, by simp [intOf]; omega⟩
                · have hpt : ((b1 : Int) % 2 == 1) = false := by
                    rw [show ((b1 : Int)) % 2 = ((b1 % 2 : Nat) : Int) from rfl, show b1 % 2 = 0 from by omega]; rfl
                  go_wp2_with (first | ((with_reducible show wpList _ _ _ (⟨none, .store 5 (.tmp 32) (.tmp 31), _, _, _, _⟩ :: _) _ _); go_must (refine wpList_store_one rfl 5 (.tmp 32) (.tmp 31) rfl (w.heap.size + 1) i rfl .u8 _ rfl t _ HTT.out size5 (by simp only [List.size_toArray, bcs_len]; have := HBL.out; omega) ?_; intro x5 hh hg hz; rw [HE.out, bcs_put] at hh; have HT5 := Lib.hid hh; have H2 := Lib.hid (H1.out.set hg (by rw [List.length_set]; exact HBL.out) hh); clear hh hg hz; have c0' := H2.out.b.cell i hlt; rw [getD_set_eq8 _ _ _ (by have := HBL.out; omega), of_byte, HH2.out] at c0'; have c1 := H2.out.b.cell (i + 1) (by omega); rw [getD_set_ne8 _ _ _ _ (by omega), HB1.out] at c1)) | fail)
                  exact ⟨⟨i + 1, _, by omega, by go_num, HM.out.next HBL.out hlt (b / 2) (by rw [HST.out, show b1 % 2 = 0 from by omega]; have := HH2.out; omega), H2.out⟩, by simp [intOf]; omega⟩
              · have e31 : i = 31 := by omega
                have h31i : ¬ (i : Int) < 31 := by omega
                have hst := half_last v HVT.out
                rw [← e31, ← (by have h := HM.out i hlt; rw [if_neg (by omega)] at h; exact h : (l.getD i 0).toNat = v / 256 ^ i % 256), HB.out] at hst
                clear e31
                have HST := Lib.hid hst
                clear hst
                go_wp2_with (first | ((with_reducible show wpList _ _ _ (⟨none, .store 5 (.tmp 32) (.tmp 31), _, _, _, _⟩ :: _) _ _); go_must (refine wpList_store_one rfl 5 (.tmp 32) (.tmp 31) rfl (w.heap.size + 1) i rfl .u8 _ rfl t _ HTT.out size5 (by simp only [List.size_toArray, bcs_len]; have := HBL.out; omega) ?_; intro x5 hh hg hz; rw [HE.out, bcs_put] at hh; have HT5 := Lib.hid hh; have H2 := Lib.hid (H1.out.set hg (by rw [List.length_set]; exact HBL.out) hh); clear hh hg hz)) | fail)
                exact ⟨⟨i + 1, _, by omega, by go_num, HM.out.next HBL.out hlt (b / 2) (by rw [HST.out]; exact HH2.out), H2.out⟩, by simp [intOf]; omega⟩
            · obtain rfl : i = 32 := by omega
              have hl : l = enc (v / 2) := bytes_eq l (v / 2) (Nat.lt_of_le_of_lt (Nat.div_le_self _ _) HVT.out) HBL.out (fun j hj => by rw [HM.out j hj, if_pos hj])
              subst hl
              have hk2 : IntKind.i64.wrap ((r : Int) - 1) = ((r - 1 : Nat) : Int) := (IntWalk.i64_in _ (by omega)).trans (by omega)
              go_wp2_with fail
              exact ⟨⟨r - 1, by omega, rfl, by rw [← HNX.out]; exact H1.out⟩, by simp [intOf]; omega⟩
end Go.Proofs.Ytgdimnbdnepbgaa
/- The reference's functions in numbers: their right sides are those of the program's. No statement is proved here. -/
namespace Go.Proofs.Ytgdimnbdnepbgaa
open Go.RowKit
set_option linter.unusedVariables false
set_option maxRecDepth 40000
set_option linter.unusedSimpArgs false

theorem rAdd_any (a b : Nat) (ha : a < TT) (hb : b < TT) (w : World) : Calls Try.prog 20 #[vN a, vN b] w (Gives (vN ((a + b) % PP)) w) := by
  obtain ⟨x, x1, x2, x3⟩ := rOpen a ha
  obtain ⟨y, y1, y2, y3⟩ := rOpen b hb
  obtain ⟨z, z1, z2, z3⟩ := Plus_gives x y x1 y1
  rw [Nat.add_mod, ← x2, ← y2, ← Nat.add_mod, ← z2]
  exact rAdd_core a b _ x y z w (Lib.hid x3) (Lib.hid y3) (Lib.hid z3) (Lib.hid fun w => Close_gives z z1 w)
theorem sub_res (a b z : Nat) (h : (z + b) % PP = a % PP) : (a + (PP - b % PP)) % PP = z % PP := by
  have hb : b % PP < PP := modP b
  have e : (a + (PP - b % PP)) % PP = ((z + b) + (PP - b % PP)) % PP := by rw [Nat.add_mod, ← h, ← Nat.add_mod]
  rw [e]
  have hd := Nat.div_add_mod b PP
  rw [show z + b + (PP - b % PP) = z + PP * (b / PP + 1) from by rw [Nat.mul_add]; omega, Nat.add_mul_mod_self_left]
theorem rSub_any (a b : Nat) (ha : a < TT) (hb : b < TT) (w : World) : Calls Try.prog 22 #[vN a, vN b] w (Gives (vN ((a + (PP - b % PP)) % PP)) w) := by
  obtain ⟨x, x1, x2, x3⟩ := rOpen a ha
  obtain ⟨y, y1, y2, y3⟩ := rOpen b hb
  obtain ⟨z, z1, z2, z3⟩ := Minus_gives x y x1 y1
  have e : (a + (PP - b % PP)) % PP = val10 z % PP := by
    refine sub_res a b _ ?_
    rw [Nat.add_mod, ← y2, ← Nat.add_mod, z2, x2]
  rw [e]
  exact rSub_core a b _ x y z w (Lib.hid x3) (Lib.hid y3) (Lib.hid z3) (Lib.hid fun w => Close_gives z z1 w)
theorem rMul_any (a b : Nat) (ha : a < TT) (hb : b < TT) (w : World) : Calls Try.prog 26 #[vN a, vN b] w (Gives (vN (a * b % PP)) w) := by
  obtain ⟨x, x1, x2, x3⟩ := rOpen a ha
  obtain ⟨y, y1, y2, y3⟩ := rOpen b hb
  obtain ⟨z, z1, z2, z3⟩ := Times_gives x y x1 y1
  rw [Nat.mul_mod, ← x2, ← y2, ← Nat.mul_mod, ← z2]
  exact rMul_core a b _ x y z w (Lib.hid x3) (Lib.hid y3) (Lib.hid z3) (Lib.hid fun w => Close_gives z z1 w)
theorem rPow_any (a e : Nat) (ha : a < TT) (he : e < TT) (w : World) : Calls Try.prog 28 #[vN a, vN e] w (Gives (vN (a ^ e % PP)) w) := by
  obtain ⟨x, x1, x2, x3⟩ := rOpen a ha
  rw [Nat.pow_mod, ← x2, ← Nat.pow_mod]
  refine rPow_core a e _ x (fun o => R10 o ∧ val10 o % PP = val10 x ^ e % PP) w (Lib.hid x3) (Lib.hid fun w => ?_) (Lib.hid fun z hz w => ?_)
  · refine (Power_core x (enc e) w (Lib.hid x1) (Lib.hid (enc_len e))).mono ?_
    rintro r w' ⟨o, h1, h2, h3, h4⟩
    rw [nv_enc e he] at h2
    exact ⟨o, ⟨h1, h2⟩, h3, h4⟩
  · rw [← hz.2]
    exact Close_gives z hz.1 w
theorem rNeg_any (a : Nat) (ha : a < TT) (w : World) : Calls Try.prog 24 #[vN a] w (Gives (vN ((PP - a % PP) % PP)) w) := by
  have h : ∀ w, Calls Try.prog 22 #[vN 0, vN a] w (Gives (vN ((0 + (PP - a % PP)) % PP)) w) := fun w => rSub_any 0 a (by unfold TT; omega) ha w
  rw [Nat.zero_add] at h
  exact rNeg_core a _ w (Lib.hid h)
theorem rem_two : ∀ x : Nat, x < 256 → (((x : Int)).tmod 2 == 1) = decide (x % 2 = 1) := by decide +kernel
theorem rOdd_any (a : Nat) (ha : a < TT) (w : World) : Calls Try.prog 32 #[vN a] w (Gives (.bool (decide (a % PP % 2 = 1))) w) := by
  refine rOdd_core a (a % PP) _ w (Lib.hid fun w => rRest_any a ha w) (Lib.hid fun w => index_first _ w) ?_
  have h := rem_two (a % PP % 256) (Nat.mod_lt _ (by omega))
  rw [show a % PP % 256 % 2 = a % PP % 2 from Nat.mod_mod_of_dvd _ ⟨128, by decide⟩] at h
  exact Lib.hid h
theorem rSame_any (a b : Nat) (ha : a < TT) (hb : b < TT) (w : World) : Calls Try.prog 34 #[vN a, vN b] w (Gives (.bool (decide (a % PP = b % PP))) w) :=
  rSame_core a b (a % PP) (b % PP) _ w (Lib.hid fun w => rRest_any a ha w) (Lib.hid fun w => rRest_any b hb w) (Lib.hid fun w => eqN _ _ (modT a) (modT b) w)
theorem shifted_inv (q : Nat) (hq : PP = q + 2) (w : World) : Calls Try.prog 64 #[.int .i64 2, .int .i64 0] w (Gives (vN q) w) := by
  have h := shifted_core 2 0 57896044618658097711785492504343953926634992332820282019728792003956564819947 (by omega) (by omega) (Lib.hid (by decide +kernel)) (Lib.hid (by unfold TT; omega)) w
  rw [show 57896044618658097711785492504343953926634992332820282019728792003956564819947 / 2 ^ 0 = q from by unfold PP at hq; omega] at h
  exact h
theorem shifted_quarter (k : Nat) (hk : PP = 8 * k + 5) (w : World) : Calls Try.prog 64 #[.int .i64 1, .int .i64 2] w (Gives (vN (2 * k + 1)) w) := by
  have h := shifted_core 1 2 57896044618658097711785492504343953926634992332820282019728792003956564819948 (by omega) (by omega) (Lib.hid (by decide +kernel)) (Lib.hid (by unfold TT; omega)) w
  rw [show 57896044618658097711785492504343953926634992332820282019728792003956564819948 / 2 ^ 2 = 2 * k + 1 from by unfold PP at hk; omega] at h
  exact h
theorem shifted_eighth (k : Nat) (hk : PP = 8 * k + 5) (w : World) : Calls Try.prog 64 #[.int .i64 5, .int .i64 3] w (Gives (vN k) w) := by
  have h := shifted_core 5 3 57896044618658097711785492504343953926634992332820282019728792003956564819944 (by omega) (by omega) (Lib.hid (by decide +kernel)) (Lib.hid (by unfold TT; omega)) w
  rw [show 57896044618658097711785492504343953926634992332820282019728792003956564819944 / 2 ^ 3 = k from by unfold PP at hk; omega] at h
  exact h
theorem rInv_any (q : Nat) (hq : PP = q + 2) (a : Nat) (ha : a < TT) (w : World) : Calls Try.prog 30 #[vN a] w (Gives (vN (a ^ q % PP)) w) :=
  rInv_core a q _ w (Lib.hid (shifted_inv q hq)) (Lib.hid fun w => rPow_any a q ha (by have := PP_lt; omega) w)
/-- The square of what is multiplied by a root of -1. -/
theorem minus_sq (p m c i : Nat) (hp : 0 < p) (hi : i * i % p = p - 1) (x : Nat) (hm : x * x % p = m) (hc : c < p) : (x * i % p * (x * i % p) % p = c) ↔ (m = (p - c) % p) := by
  have hmp : m < p := by rw [← hm]; exact Nat.mod_lt _ hp
  have e : x * i % p * (x * i % p) % p = m * (p - 1) % p := by
    rw [← Nat.mul_mod, show x * i * (x * i) = (x * x) * (i * i) from by ac_rfl, Nat.mul_mod, hm, hi]
  have e2 : m * (p - 1) % p = (p - m) % p := by
    have : m * (p - 1) + m = p * m := by rw [← Nat.mul_succ, show (p - 1).succ = p from by omega, Nat.mul_comm]
    by_cases h0 : m = 0
    · subst h0; simp
    · have h1 : m * (p - 1) = p * (m - 1) + (p - m) := by
        have : p * m = p * (m - 1) + p := by rw [← Nat.mul_succ]; congr 1; omega
        omega
      rw [h1, Nat.mul_add_mod]
  rw [e, e2]
  by_cases h0 : m = 0
  · subst h0
    rw [Nat.sub_zero, Nat.mod_self]
    by_cases hc0 : c = 0
    · subst hc0; simp
    · rw [Nat.mod_eq_of_lt (show p - c < p by omega)]
      omega
  · rw [Nat.mod_eq_of_lt (show p - m < p by omega)]
    by_cases hc0 : c = 0
    · subst hc0; rw [Nat.sub_zero, Nat.mod_self]; omega
    · rw [Nat.mod_eq_of_lt (show p - c < p by omega)]
      omega
end Go.Proofs.Ytgdimnbdnepbgaa
/- Bytes as arrays; Bytes and Read over points. No statement is proved here. -/
namespace Go.Proofs.Ytgdimnbdnepbgaa
open Go.RowKit
set_option linter.unusedVariables false
set_option maxRecDepth 40000
set_option linter.unusedSimpArgs false

/-- A number is stored into a row of numbers. -/
theorem exec_store22 {o : Oper} {a : Act} {w : World} (p x : Operand) (ho : o.op = .store 22 p x) (g i off : Nat) (he : off = 32 * i) (l : List Nat) (n : Nat) (hp : a.eval p = .pointer (some ⟨g, off, none⟩)) (hx : a.eval x = vN n) (hr : RAt w g l) (hi : i < l.length) :
    ∃ w', (execOp a.eval o).run Try.prog w = .ok .skip w' ∧ RAt w' g (l.set i n) ∧ w.grownBy w' (some g) ∧ w'.heap.size = w.heap.size := by
  subst he
  obtain ⟨t, ht⟩ := hr
  have hq : ∃ i, Try.prog.info? 22 = some i ∧ i.size = 32 := by
    have := size22
    cases h : Try.prog.info? 22 with
    | none => rw [h] at this; simp at this
    | some i => exact ⟨i, rfl, by rw [h] at this; simpa using this⟩
  obtain ⟨k, hk, hs⟩ := hq
  have hst := run_storeCells_at Try.prog g (32 * i) t (bcs (enc n)) 0 (bcs (encs l)).toArray w ht (by rw [List.size_toArray, bcs_len, bcs_len, encs_len, enc_len]; omega) (bcs_one _)
  simp only [Nat.add_zero] at hst
  have e : (((bcs (encs l)).toArray.toList.take (32 * i) ++ bcs (enc n) ++ (bcs (encs l)).toArray.toList.drop (32 * i + (bcs (enc n)).length)).toArray) = (bcs (encs (l.set i n))).toArray := by
    rw [bcs_enc_len, ← encs_set l i n hi, bcs_append, bcs_append]
    simp [bcs]
  rw [e] at hst
  have hrun : (Instr.storeAt 22 (.pointer (some ⟨g, 32 * i, none⟩)) (vN n)).run Try.prog w = .ok () (w.setRow g (bcs (encs (l.set i n))).toArray) := by
    have hc : (vN n).cells.size = 32 := by show (bcs (enc n)).toArray.size = 32; rw [List.size_toArray, bcs_enc_len]
    have hc2 : (vN n).cells.toList = bcs (enc n) := rfl
    simp [Instr.storeAt, Instr.sureAddr, storeVar, sizeOf, typeInfo, hk, hs, hc, hc2, hst]
  refine ⟨_, ?_, ⟨t, setRow_heap w g _ _ t _ ht⟩, setRow_grown w g _, by simp⟩
  unfold execOp
  simp only [ho, hp, hx, Sem.run_bind, Sem.run_pure, Result.andThen_ok, hrun]
theorem wpList_store22 {ops : Array Oper} {rest : List Oper} {o : Oper} {a : Act} {w : World} {Q : Exit → Act → World → Prop} (hgd : Region.wanted o (yielded ops a.tmps) = true) (p x : Operand) (ho : o.op = .store 22 p x) (g i off : Nat) (he : off = 32 * i) (l : List Nat) (n : Nat) (hp : a.eval p = .pointer (some ⟨g, off, none⟩)) (hx : a.eval x = vN n) (hr : RAt w g l) (hi : i < l.length)
    (h : ∀ w', RAt w' g (l.set i n) → w.grownBy w' (some g) → w'.heap.size = w.heap.size → wpList Try.prog ops Q rest (a.put o.dst undef) w') : wpList Try.prog ops Q (o :: rest) a w := by
  refine wpList_want hgd fun K hK => ?_
  obtain ⟨w', h1, h2, h3, h4⟩ := exec_store22 (a := a) p x ho g i off he l n hp hx hr hi
  unfold Oper.wp
  rw [h1]
  exact hK _ _ (h w' h2 h3 h4)
theorem keyLits22 (l : List UInt8) (hl : l.length = 32) : Try.prog.keyLits 2 22 (Value.agg (bcs l).toArray).cells.toList = some (l.map fun b => Lit.int .u8 (b.toNat : Int)) := by
  have h := keyLits_ints (P := Try.prog) (t := 22) (e := 5) (n := 32) (k := .u8) under22 Try.underlying5 (by kernel_rfl) (by kernel_rfl) (l.map fun b => (b.toNat : Int)) (by simpa using hl) (wf8 l)
  rw [← bcs_ints] at h
  rw [show (Value.agg (bcs l).toArray).cells.toList = bcs l from rfl, h, List.map_map]
  rfl
theorem eq22 (a b : List UInt8) (ha : a.length = 32) (hb : b.length = 32) (w : World) : (Op.equalIn 10000 22 (.agg (bcs a).toArray) (.agg (bcs b).toArray)).run Try.prog w = .ok (decide (a = b)) w := by
  have hk : Try.prog.keyTypeAt 2 22 = true := by kernel_rfl
  have hf : ∀ l : List UInt8, l.length = 32 → (Value.agg (bcs l).toArray).formed Try.prog 22 = true := by
    intro l hl
    have hc : Try.prog.cellsOf 22 = 32 := by kernel_rfl
    simp [Value.formed, hc, bcs_len, hl]
  obtain ⟨r, hr, hiff⟩ := run_equalIn_deep (P := Try.prog) 9998 2 22 hk w 2 2 _ _ _ _ (hf a ha) (hf b hb) (keyLits22 a ha) (keyLits22 b hb)
  rw [hr]
  congr 1
  by_cases h : a = b
  · subst h
    rw [decide_eq_true rfl]
    exact hiff.2 rfl
  · rw [decide_eq_false h]
    cases r
    · rfl
    · exact absurd (lits_inj a b (hiff.1 rfl)) h
theorem eqN22 (m n : Nat) (hm : m < TT) (hn : n < TT) (w : World) : (Op.equalIn 10000 22 (vN m) (vN n)).run Try.prog w = .ok (decide (m = n)) w := by
  have h := eq22 (enc m) (enc n) (enc_len m) (enc_len n) w
  rw [show (Value.agg (bcs (enc m)).toArray) = vN m from rfl, show (Value.agg (bcs (enc n)).toArray) = vN n from rfl] at h
  rw [h]
  congr 1
  rw [Bool.eq_iff_iff, decide_eq_true_eq, decide_eq_true_eq]
  exact ⟨fun h => enc_inj hm hn h, fun h => by rw [h]⟩
section
variable {o : Oper} {a : Act}
theorem exec_eq22 {w : World} {m n : Nat} {b : Bool} (x y : Operand) (ho : o.op = .binOp .eql 22 x y 22) (hx : a.eval x = vN m) (hy : a.eval y = vN n) (hb : (Op.equalIn 10000 22 (vN m) (vN n)).run Try.prog w = .ok b w) : (execOp a.eval o).run Try.prog w = .ok (.value (.bool b)) w := by
  have hg : ∀ (x y : Operand), (eqGuard .eql 22 x y (vN m) (vN n)).run Try.prog w = .ok () w := fun x y => run_eqGuard_agg w .eql 22 x y _ _ Try.eqGuardType22
  have hbin : (binOp .eql 22 (vN m) (vN n)).run Try.prog w = .ok (.bool b) w := by
    show (do pure (.bool (← Op.equal 22 (vN m) (vN n))) : Sem Value).run Try.prog w = _
    rw [Sem.run_bind, show (Op.equal 22 (vN m) (vN n)) = Op.equalIn 10000 22 (vN m) (vN n) from rfl, hb]
    rfl
  unfold execOp
  simp only [ho, hx, hy, Sem.run_bind, Sem.run_pure, Result.andThen_ok, hg, hbin]
theorem exec_neq22 {w : World} {m n : Nat} {b : Bool} (x y : Operand) (ho : o.op = .binOp .neq 22 x y 22) (hx : a.eval x = vN m) (hy : a.eval y = vN n) (hb : (Op.equalIn 10000 22 (vN m) (vN n)).run Try.prog w = .ok b w) : (execOp a.eval o).run Try.prog w = .ok (.value (.bool (!b))) w := by
  have hg : ∀ (x y : Operand), (eqGuard .neq 22 x y (vN m) (vN n)).run Try.prog w = .ok () w := fun x y => run_eqGuard_agg w .neq 22 x y _ _ Try.eqGuardType22
  have hbin : (binOp .neq 22 (vN m) (vN n)).run Try.prog w = .ok (.bool (!b)) w := by
    show (do pure (.bool (!(← Op.equal 22 (vN m) (vN n)))) : Sem Value).run Try.prog w = _
    rw [Sem.run_bind, show (Op.equal 22 (vN m) (vN n)) = Op.equalIn 10000 22 (vN m) (vN n) from rfl, hb]
    rfl
  unfold execOp
  simp only [ho, hx, hy, Sem.run_bind, Sem.run_pure, Result.andThen_ok, hg, hbin]
end
namespace Ed
variable {n : Nat} [NeZero n]
/-- d y^2 + 1 is never 0. -/
theorem den_y (E : Ed n) (y : Fin n) : E.d * (y * y) + 1 ≠ 0 := by
  intro h
  have hy : y ≠ 0 := fun h0 => E.h1 (by rw [h0] at h; grind)
  have hi := E.hi
  have hv := E.hinv y hy
  refine E.hd (E.i * E.inv y) ?_
  apply E.cancel (E.mul_ne hy hy)
  have e : y * y * (E.i * E.inv y * (E.i * E.inv y)) = E.i * E.i * (y * E.inv y) * (y * E.inv y) := by grind
  rw [e, hi, hv]
  grind
theorem On_x (E : Ed n) {x y : Fin n} (h : E.On x y) : (y * y - 1) * E.inv (E.d * (y * y) + 1) = x * x := by
  have hv := E.hinv _ (E.den_y y)
  unfold On at h
  generalize E.inv (E.d * (y * y) + 1) = v at *
  have e : y * y - 1 = x * x * (E.d * (y * y) + 1) := by grind
  rw [e]
  grind
theorem x_On (E : Ed n) {x y : Fin n} (h : x * x = (y * y - 1) * E.inv (E.d * (y * y) + 1)) : E.On x y := by
  have hv := E.hinv _ (E.den_y y)
  unfold On
  generalize E.inv (E.d * (y * y) + 1) = v at *
  have e : x * x * (E.d * (y * y) + 1) = y * y - 1 := by rw [h]; grind
  grind
end Ed
theorem P_odd : PP % 2 = 1 := by unfold PP; rfl
theorem sqv (x : Fin PP) : (x * x).val = x.val * x.val % PP := Fin.val_mul x x
/-- The root that Read takes. -/
noncomputable def rtY (k : Nat) (y : Fin PP) : Nat × Bool := rt PP k ((y * y - 1) * fInv (dF * (y * y) + 1)).val
theorem rtY_on (k : Nat) (hk : PP = 8 * k + 5) (x y : Fin PP) (h : EC.On x y) : rtY k y = (evn PP x.val, true) := by
  have e : (y * y - 1) * fInv (dF * (y * y) + 1) = x * x := EC.On_x h
  unfold rtY
  rw [e, sqv]
  by_cases h0 : x = 0
  · subst h0
    rw [v0, Nat.zero_mul, Nat.zero_mod, rt_zero]
    rfl
  · have hd : ¬ PP ∣ x.val := fun hd => val_ne h0 (Nat.mod_eq_zero_of_dvd hd)
    have h := rt_square prP hk (htwo k hk) x.val hd
    rw [Nat.mod_eq_of_lt x.isLt] at h
    exact h
theorem rtY_ok (k : Nat) (hk : PP = 8 * k + 5) (y : Fin PP) (h : (rtY k y).2 = true) : ∃ x : Fin PP, EC.On x y ∧ (rtY k y).1 = x.val ∧ x.val % 2 = 0 := by
  obtain ⟨h1, h2⟩ := rt_sq prP hk (htwo k hk) _ h
  have hlt := rt_lt prP hk ((y * y - 1) * fInv (dF * (y * y) + 1)).val
  refine ⟨⟨(rtY k y).1, hlt⟩, ?_, rfl, h2⟩
  apply EC.x_On
  apply Fin.ext
  rw [Fin.val_mul]
  show (rtY k y).1 * (rtY k y).1 % PP = ((y * y - 1) * fInv (dF * (y * y) + 1)).val
  have := h1
  rw [Nat.mod_eq_of_lt (Fin.isLt _)] at this
  exact this
theorem neg_val (x : Fin PP) (h : x ≠ 0) : (-x).val = PP - x.val := by
  have hx : x.val ≠ 0 := fun h0 => h (Fin.ext h0)
  have e : (-x).val = (PP - x.val) % PP := rfl
  rw [e, Nat.mod_eq_of_lt (by have := x.isLt; omega)]
def HH : Nat := 57896044618658097711785492504343953926634992332820282019728792003956564819968
theorem HH_eq : HH = 128 * 256 ^ 31 := by unfold HH; rfl
theorem PH : PP < HH := by unfold PP HH; omega
theorem HT2 : TT = HH + HH := by unfold TT HH; omega
/-- The bytes of a point, as a number. -/
def bts (x y : Fin PP) : Nat := if x.val % 2 = 1 then y.val + HH else y.val
theorem bts_lt (x y : Fin PP) : bts x y < TT := by
  unfold bts
  have := y.isLt
  have := PH
  rw [HT2]
  split <;> omega
/-- The highest bit, set or not. -/
theorem top_set (y : Nat) (hy : y < HH) : ((enc y).getD 31 0).toNat < 128 ∧ (enc y).set 31 (UInt8.ofNat (((enc y).getD 31 0).toNat + 128)) = enc (y + HH) := by
  have hT : y < TT := by rw [HT2]; omega
  have hb := enc_byte y hT 31
  have h1 : y / 256 ^ 31 < 128 := by rw [Nat.div_lt_iff_lt_mul (by decide)]; rw [HH_eq] at hy; exact hy
  have h2 : ((enc y).getD 31 0).toNat < 128 := by rw [hb]; exact Nat.lt_of_le_of_lt (Nat.mod_le _ _) h1
  refine ⟨h2, bytes_eq _ _ (by rw [HT2]; omega) (by rw [List.length_set, enc_len]) fun j hj => ?_⟩
  have hHT : y + HH < TT := by rw [HT2]; omega
  by_cases e : 31 = j
  · subst e
    rw [getD_set_eq8 _ _ _ (by rw [enc_len]; omega), of_byte, hb, HH_eq, Nat.add_mul_div_right _ _ (by decide)]
    omega
  · rw [getD_set_ne8 _ _ _ _ e, enc_byte y hT j]
    have : HH = 256 ^ j * (128 * 256 ^ (31 - j)) := by rw [HH_eq, show 256 ^ 31 = 256 ^ j * 256 ^ (31 - j) from by rw [← Nat.pow_add]; congr 1; omega]; ac_rfl
    rw [this, Nat.add_mul_div_left _ _ (Nat.pow_pos (by decide))]
    have : 128 * 256 ^ (31 - j) = 256 * (128 * 256 ^ (30 - j)) := by rw [show 31 - j = (30 - j) + 1 from by omega, Nat.pow_succ]; ac_rfl
    rw [this, Nat.add_mul_mod_self_left]
theorem top_clear (y : Nat) (hy : y < HH) : 128 ≤ ((enc (y + HH)).getD 31 0).toNat ∧ (enc (y + HH)).set 31 (UInt8.ofNat (((enc (y + HH)).getD 31 0).toNat - 128)) = enc y := by
  obtain ⟨h1, h2⟩ := top_set y hy
  rw [← h2, getD_set_eq8 _ _ _ (by rw [enc_len]; omega), of_byte, Nat.mod_eq_of_lt (by omega), Nat.add_sub_cancel]
  refine ⟨by omega, ?_⟩
  rw [List.set_set]
  have : UInt8.ofNat ((enc y).getD 31 0).toNat = (enc y).getD 31 0 := by apply UInt8.toNat_inj.1; rw [of_byte, Nat.mod_eq_of_lt (UInt8.toNat_lt _)]
  rw [this]
  have hg : (enc y).getD 31 0 = (enc y)[31]'(by rw [enc_len]; omega) := by rw [List.getD_eq_getElem?_getD, List.getElem?_eq_getElem (by rw [enc_len]; omega)]; rfl
  rw [hg]
  exact List.set_getElem_self _
theorem top_same (y : Nat) : (enc y).set 31 (UInt8.ofNat ((enc y).getD 31 0).toNat) = enc y := by
  have : UInt8.ofNat ((enc y).getD 31 0).toNat = (enc y).getD 31 0 := by apply UInt8.toNat_inj.1; rw [of_byte, Nat.mod_eq_of_lt (UInt8.toNat_lt _)]
  rw [this]
  have hg : (enc y).getD 31 0 = (enc y)[31]'(by rw [enc_len]; omega) := by rw [List.getD_eq_getElem?_getD, List.getElem?_eq_getElem (by rw [enc_len]; omega)]; rfl
  rw [hg]
  exact List.set_getElem_self _
theorem and_top : ∀ t : Nat, t < 256 → (bits .and .u8 (t : Int) 128 != 0) = decide (128 ≤ t) := by decide +kernel
theorem clr_top : ∀ t : Nat, t < 256 → bits .andNot .u8 (t : Int) 128 = ((if 128 ≤ t then t - 128 else t : Nat) : Int) := by decide +kernel
theorem xor_top : ∀ t : Nat, t < 256 → bits .xor .u8 (t : Int) 128 = ((if 128 ≤ t then t - 128 else t + 128 : Nat) : Int) := by decide +kernel
end Go.Proofs.Ytgdimnbdnepbgaa
/- Bytes and Read, over points and numbers. No statement is proved here. -/
namespace Go.Proofs.Ytgdimnbdnepbgaa
open Go.RowKit
set_option linter.unusedVariables false
set_option maxRecDepth 40000
set_option linter.unusedSimpArgs false

theorem pBytes (p : EC.Pt) (w : World) : Calls Try.prog 36 #[vPt p] w (Gives (.tuple #[vN (bts p.1.1 p.1.2), .int .i64 0]) w) := by
  have ht := top_set p.1.2.val (Nat.lt_trans p.1.2.isLt PH)
  refine Bytes_core p.1.1.val p.1.2.val (bts p.1.1 p.1.2) _ w (Lib.hid (pCheck p)) (Lib.hid (Odd_any p.1.1.val (fT _))) ?_ (Lib.hid ht.1)
  rw [Nat.mod_eq_of_lt p.1.1.isLt]
  unfold bts
  by_cases h : p.1.1.val % 2 = 1
  · rw [decide_eq_true h, if_pos h, if_pos rfl]
    exact Lib.hid ht.2
  · rw [decide_eq_false h, if_neg h, if_neg (by decide)]
    exact Lib.hid rfl
theorem across_raw (k : Nat) (hk : PP = 8 * k + 5) (y : Nat) (hy : y < TT) (w : World) : Calls Try.prog 78 #[vN y] w (Gives (.tuple #[vN (rtY k (fO y)).1, .bool (rtY k (fO y)).2]) w) := by
  have hA : ∀ w, Calls Try.prog 19 #[vN (dF * (fO y * fO y)).val, vN 1] w (Gives (vN (dF * (fO y * fO y) + 1).val) w) := fun w => by
    have h := fAdd (dF * (fO y * fO y)) 1 w
    rw [v1] at h
    exact h
  have hS : ∀ w, Calls Try.prog 21 #[vN (fO y * fO y).val, vN 1] w (Gives (vN (fO y * fO y - 1).val) w) := fun w => by
    have h := fSub (fO y * fO y) 1 w
    rw [v1] at h
    exact h
  have hR := Root_any k hk ((fO y * fO y - 1) * fInv (dF * (fO y * fO y) + 1)).val (fT _)
  unfold rtY
  generalize rt PP k ((fO y * fO y - 1) * fInv (dF * (fO y * fO y) + 1)).val = r at *
  exact across_core y _ _ _ _ _ _ _ r.1 r.2 w (Lib.hid fun w => Of_any 1 (by omega) w) (Lib.hid (rawMul y y hy hy)) (Lib.hid fD) (Lib.hid (fMul _ _)) (Lib.hid hA) (Lib.hid (fInvC _)) (Lib.hid hS) (Lib.hid (fMul _ _)) (Lib.hid hR)
/-- The point with these numbers. -/
def mkP (x y : Fin PP) (h : EC.On x y) : EC.Pt := ⟨(x, y), h⟩
/-- What Read tells of y, with the highest bit or without. -/
theorem read_low (k : Nat) (hk : PP = 8 * k + 5) (y : Nat) (hy : y < HH) (odd : Bool) (w : World) (rx ry : Nat) (re : Int)
    (h : if decide (y = y % PP) && ((rtY k (fO y)).2 && !(odd && decide ((rtY k (fO y)).1 = 0))) then (if odd then (PP - (rtY k (fO y)).1 % PP) % PP else (rtY k (fO y)).1) = rx ∧ y = ry ∧ (0 : Int) = re else 0 = rx ∧ 0 = ry ∧ (4 : Int) = re) :
    Calls Try.prog 35 #[vN (if odd then y + HH else y)] w (Gives (.tuple #[vR [rx, ry], .int .i64 re]) w) := by
  have hT : y < TT := by rw [HT2]; omega
  have hlt := rt_lt prP hk ((fO y * fO y - 1) * fInv (dF * (fO y * fO y) + 1)).val
  have hxT : (rtY k (fO y)).1 < TT := Nat.lt_trans hlt PP_lt
  have hA := across_raw k hk y hT
  have hN := Neg_any (rtY k (fO y)).1 hxT
  have hE := eqN (rtY k (fO y)).1 0 hxT (by unfold TT; omega)
  obtain ⟨s1, s2⟩ := top_set y hy
  obtain ⟨c1, c2⟩ := top_clear y hy
  have b1 := UInt8.toNat_lt ((enc (y + HH)).getD 31 0)
  clear hlt
  cases odd
  · refine Read_core y y (rtY k (fO y)).1 _ _ ((enc y).getD 31 0).toNat rx ry re false _ _ _ w (Lib.hid rfl) (Lib.hid ?_) (Lib.hid ?_) (Lib.hid (by omega)) (Lib.hid (top_same y)) (Lib.hid (Canon_any y hT)) (Lib.hid hA) (Lib.hid hN) (Lib.hid hE) (Lib.hid h)
    · rw [and_top _ (by omega), decide_eq_false (by omega)]
    · rw [clr_top _ (by omega), if_neg (by omega)]
  · refine Read_core (y + HH) y (rtY k (fO y)).1 _ _ (((enc (y + HH)).getD 31 0).toNat - 128) rx ry re true _ _ _ w (Lib.hid rfl) (Lib.hid ?_) (Lib.hid ?_) (Lib.hid (by omega)) (Lib.hid c2) (Lib.hid (Canon_any y hT)) (Lib.hid hA) (Lib.hid hN) (Lib.hid hE) (Lib.hid h)
    · rw [and_top _ b1, decide_eq_true c1]
    · rw [clr_top _ b1, if_pos c1]
/-- A point is read from its bytes. -/
theorem pRead (p : EC.Pt) (w : World) : Calls Try.prog 35 #[vN (bts p.1.1 p.1.2)] w (Gives (.tuple #[vPt p, .int .i64 0]) w) := by
  obtain ⟨k, hk⟩ := k_ex
  have hr := rtY_on k hk p.1.1 p.1.2 p.2
  have hlt := p.1.1.isLt
  have hy : p.1.2.val < HH := Nat.lt_trans p.1.2.isLt PH
  have hodd := P_odd
  have h := read_low k hk p.1.2.val hy (decide (p.1.1.val % 2 = 1)) w p.1.1.val p.1.2.val 0
  rw [fO_of, hr, Nat.mod_eq_of_lt p.1.2.isLt, decide_eq_true rfl] at h
  unfold bts vPt
  by_cases ho : p.1.1.val % 2 = 1
  · have he : evn PP p.1.1.val = PP - p.1.1.val := by unfold evn; rw [if_pos ho, Nat.mod_eq_of_lt (by omega)]
    rw [decide_eq_true ho, he] at h
    rw [if_pos ho]
    simp only [if_true] at h
    refine h ?_
    have hz : (PP - (PP - p.1.1.val) % PP) % PP = p.1.1.val := by
      rw [Nat.mod_eq_of_lt (show PP - p.1.1.val < PP by omega), show PP - (PP - p.1.1.val) = p.1.1.val from by omega, Nat.mod_eq_of_lt hlt]
    rw [decide_eq_false (by omega), hz]
    simp
  · have he : evn PP p.1.1.val = p.1.1.val := by unfold evn; rw [if_neg ho]
    rw [decide_eq_false ho, he] at h
    rw [if_neg ho]
    refine h ?_
    simp
/-- With X 0 and the highest bit nothing is read. -/
theorem pRead_zero (p : EC.Pt) (h0 : p.1.1 = 0) (w : World) : Calls Try.prog 35 #[vN (p.1.2.val + HH)] w (Gives (.tuple #[vR [0, 0], .int .i64 4]) w) := by
  obtain ⟨k, hk⟩ := k_ex
  have hr := rtY_on k hk p.1.1 p.1.2 p.2
  have hy : p.1.2.val < HH := Nat.lt_trans p.1.2.isLt PH
  have h := read_low k hk p.1.2.val hy true w 0 0 4
  rw [fO_of, hr, h0] at h
  have he : evn PP (0 : Fin PP).val = 0 := rfl
  rw [he] at h
  refine h ?_
  simp
/-- Whatever is read is a point with just these bytes. -/
theorem pRead_any (n : Nat) (hn : n < TT) : (∃ p : EC.Pt, n = bts p.1.1 p.1.2) ∨ ∀ w, Calls Try.prog 35 #[vN n] w (Gives (.tuple #[vR [0, 0], .int .i64 4]) w) := by
  obtain ⟨k, hk⟩ := k_ex
  obtain ⟨y, odd, hy, rfl⟩ : ∃ (y : Nat) (odd : Bool), y < HH ∧ n = if odd then y + HH else y := by
    rw [HT2] at hn
    by_cases h : n < HH
    · exact ⟨n, false, h, rfl⟩
    · exact ⟨n - HH, true, by omega, by simp; omega⟩
  by_cases hc : (decide (y = y % PP) && ((rtY k (fO y)).2 && !(odd && decide ((rtY k (fO y)).1 = 0)))) = true
  · left
    simp only [Bool.and_eq_true, decide_eq_true_eq, Bool.not_eq_true', Bool.and_eq_false_iff, decide_eq_false_iff_not] at hc
    obtain ⟨h1, h2, h3⟩ := hc
    obtain ⟨x, hx, e, hev⟩ := rtY_ok k hk _ h2
    have hyv : (fO y).val = y := by rw [fO_val, ← h1]
    have hodd := P_odd
    cases odd
    · refine ⟨mkP x (fO y) hx, ?_⟩
      show (if false = true then y + HH else y) = if x.val % 2 = 1 then (fO y).val + HH else (fO y).val
      rw [if_neg (show ¬ x.val % 2 = 1 by omega), hyv]
      rfl
    · have hx0 : x ≠ 0 := fun h0 => by
        rcases h3 with h3 | h3
        · cases h3
        · rw [e, h0] at h3
          exact h3 rfl
      refine ⟨mkP (-x) (fO y) (EC.On_neg hx), ?_⟩
      have hv := neg_val x hx0
      have hlt := x.isLt
      show (if true = true then y + HH else y) = if (-x).val % 2 = 1 then (fO y).val + HH else (fO y).val
      rw [hv, if_pos (show (PP - x.val) % 2 = 1 by omega), hyv]
      rfl
  · right
    intro w
    refine read_low k hk y hy odd w 0 0 4 ?_
    rw [if_neg hc]
    exact ⟨rfl, rfl, rfl⟩
/-- The highest bit makes the negative. -/
theorem bts_neg (x y : Fin PP) (h : x ≠ 0) : bts (-x) y = (if 128 ≤ ((enc (bts x y)).getD 31 0).toNat then bts x y - HH else bts x y + HH) := by
  have hv := neg_val x h
  have hlt := x.isLt
  have hodd := P_odd
  have hy : y.val < HH := Nat.lt_trans y.isLt PH
  unfold bts
  rw [hv]
  by_cases ho : x.val % 2 = 1
  · rw [if_neg (by omega), if_pos ho, if_pos (top_clear _ hy).1]
    omega
  · rw [if_pos (by omega), if_neg ho, if_neg (by have := (top_set _ hy).1; omega)]
/-- The highest bit turned. -/
theorem turn (n : Nat) (hn : n < TT) : ∃ m u, m = (if 128 ≤ ((enc n).getD 31 0).toNat then n - HH else n + HH) ∧ bits .xor .u8 (((enc n).getD 31 0).toNat : Int) 128 = ((u : Nat) : Int) ∧ u < 256 ∧ (enc n).set 31 (UInt8.ofNat u) = enc m := by
  rw [HT2] at hn
  by_cases h : n < HH
  · obtain ⟨s1, s2⟩ := top_set n h
    exact ⟨n + HH, _, by rw [if_neg (by omega)], by rw [xor_top _ (by omega), if_neg (by omega)], by omega, s2⟩
  · obtain ⟨y, rfl⟩ : ∃ y, n = y + HH := ⟨n - HH, by omega⟩
    obtain ⟨c1, c2⟩ := top_clear y (by omega)
    have b1 := UInt8.toNat_lt ((enc (y + HH)).getD 31 0)
    exact ⟨y, _, by rw [if_pos c1]; omega, by rw [xor_top _ b1, if_pos c1], by omega, c2⟩
theorem rCanonF (a : Fin PP) (w : World) : Calls Try.prog 16 #[vN a.val] w (Gives (.bool true) w) := by
  have h := rCanon_any a.val (fT a) w
  rw [decide_eq_true (Nat.mod_eq_of_lt a.isLt).symm] at h
  exact h
end Go.Proofs.Ytgdimnbdnepbgaa
/- The reference's D and L. No statement is proved here. -/
namespace Go.Proofs.Ytgdimnbdnepbgaa
open Go.RowKit
set_option linter.unusedVariables false
set_option maxRecDepth 40000
set_option linter.unusedSimpArgs false

set_option maxHeartbeats 1000000 in
theorem rL_any (w : World) : Calls Try.prog 37 #[] w (Gives (vN lN) w) := by
  have HF_0 : Hid (Below w.heap.size w w) := Lib.hid (Below.refl _ _)
  go_enter Try.func37, Try.ntmps37
  go_wp2_with (first | ((with_reducible show wpList _ _ _ (⟨some 0, .alloc 23, _, _, _, _⟩ :: _) _ _); go_must (refine wpList_alloc_row rfl 23 rfl (.agg (zbs 32)) zero23 ?_; intro u1 ha1 hza1 hga1; have Ngr_1 : Hid (RAt u1 w.heap.size [0]) := Lib.hid (zrow (k := 1) ha1); have HF_1 : Hid (Below w.heap.size w u1) := Lib.hid (HF_0.out.grown hga1 HF_0.out.size (by simp)); have HGE1 : Hid (w.heap.size ≤ w.heap.size) := Lib.hid HF_0.out.size; clear ha1 hza1 hga1 HF_0)) | ((with_reducible show wpList _ _ _ (⟨some 1, .build 23 _, _, _, _, _⟩ :: _) _ _); go_must (refine wpList_exec rfl (vN lN) (exec_buildc rfl (by kernel_rfl)) ?_)) | ((with_reducible show wpList _ _ _ (⟨none, .store 23 (.tmp 0) (.tmp 1), _, _, _, _⟩ :: _) _ _); go_must (refine wpList_storeF rfl (.tmp 0) (.tmp 1) rfl (w.heap.size) 0 0 rfl [0] lN rfl rfl Ngr_1.out (show 0 < 1 by omega) ?_; intro y2 hr2 hg2 hz2; have Ngr_2 : Hid (RAt y2 w.heap.size [lN]) := Lib.hid hr2; have HF_2 : Hid (Below w.heap.size w y2) := Lib.hid (HF_1.out.grown hg2 HF_1.out.size (fun r hr => by injection hr with hr; have := HGE1.out; omega)); clear hr2 hg2 hz2 Ngr_1 HF_1)) | fail)
  obtain ⟨tr, htr⟩ := Ngr_2.out
  refine bodyPost_ret (results_cell_row rfl _ _ w.heap.size tr (bcs (encs [lN])).toArray _ _ rfl htr under23 rfl (by rw [List.size_toArray, bcs_len, encs_len]; exact size23)) rfl ?_
  exact ⟨by rw [← vR_one]; rfl, HF_2.out⟩

set_option maxHeartbeats 1000000 in
theorem rD_core (x m y i d : Nat) (w : World) (C1 : Hid (∀ w, Calls Try.prog 18 #[.int .u64 121665] w (Gives (vN x) w))) (C2 : Hid (∀ w, Calls Try.prog 24 #[vN x] w (Gives (vN m) w))) (C3 : Hid (∀ w, Calls Try.prog 18 #[.int .u64 121666] w (Gives (vN y) w))) (C4 : Hid (∀ w, Calls Try.prog 30 #[vN y] w (Gives (vN i) w))) (C5 : Hid (∀ w, Calls Try.prog 26 #[vN m, vN i] w (Gives (vN d) w))) :
    Calls Try.prog 46 #[] w (Gives (vN d) w) := by
  have HF_0 : Hid (Below w.heap.size w w) := Lib.hid (Below.refl _ _)
  go_enter Try.func46, Try.ntmps46
  go_wp2_with (first | ((with_reducible show wpList _ _ _ (⟨some 0, .alloc 23, _, _, _, _⟩ :: _) _ _); go_must (refine wpList_alloc_row rfl 23 rfl (.agg (zbs 32)) zero23 ?_; intro u3 ha3 hza3 hga3; have Ngr_3 : Hid (RAt u3 w.heap.size [0]) := Lib.hid (zrow (k := 1) ha3); have HF_3 : Hid (Below w.heap.size w u3) := Lib.hid (HF_0.out.grown hga3 HF_0.out.size (by simp)); have HGE3 : Hid (w.heap.size ≤ w.heap.size) := Lib.hid HF_0.out.size; clear ha3 hza3 hga3 HF_0)) | fail)
  refine (C1.out _).mono ?_
  rintro e4 x4 ⟨rfl, hb4⟩
  have Ngr_4 := Lib.hid (Ngr_3.out.keep hb4)
  have HF_4 : Hid (Below w.heap.size w x4) := Lib.hid (HF_3.out.trans (hb4.mono HF_3.out.size))
  clear hb4 Ngr_3 HF_3
  go_wp2_with fail
  refine (C2.out _).mono ?_
  rintro e5 x5 ⟨rfl, hb5⟩
  have Ngr_5 := Lib.hid (Ngr_4.out.keep hb5)
  have HF_5 : Hid (Below w.heap.size w x5) := Lib.hid (HF_4.out.trans (hb5.mono HF_4.out.size))
  clear hb5 Ngr_4 HF_4
  go_wp2_with fail
  refine (C3.out _).mono ?_
  rintro e6 x6 ⟨rfl, hb6⟩
  have Ngr_6 := Lib.hid (Ngr_5.out.keep hb6)
  have HF_6 : Hid (Below w.heap.size w x6) := Lib.hid (HF_5.out.trans (hb6.mono HF_5.out.size))
  clear hb6 Ngr_5 HF_5
  go_wp2_with fail
  refine (C4.out _).mono ?_
  rintro e7 x7 ⟨rfl, hb7⟩
  have Ngr_7 := Lib.hid (Ngr_6.out.keep hb7)
  have HF_7 : Hid (Below w.heap.size w x7) := Lib.hid (HF_6.out.trans (hb7.mono HF_6.out.size))
  clear hb7 Ngr_6 HF_6
  go_wp2_with fail
  refine (C5.out _).mono ?_
  rintro e8 x8 ⟨rfl, hb8⟩
  have Ngr_8 := Lib.hid (Ngr_7.out.keep hb8)
  have HF_8 : Hid (Below w.heap.size w x8) := Lib.hid (HF_7.out.trans (hb8.mono HF_7.out.size))
  clear hb8 Ngr_7 HF_7
  go_wp2_with (first | ((with_reducible show wpList _ _ _ (⟨none, .store 23 (.tmp 0) (.tmp 5), _, _, _, _⟩ :: _) _ _); go_must (refine wpList_storeF rfl (.tmp 0) (.tmp 5) rfl (w.heap.size) 0 0 rfl [0] d rfl rfl Ngr_8.out (show 0 < 1 by omega) ?_; intro y9 hr9 hg9 hz9; have Ngr_9 : Hid (RAt y9 w.heap.size [d]) := Lib.hid hr9; have HF_9 : Hid (Below w.heap.size w y9) := Lib.hid (HF_8.out.grown hg9 HF_8.out.size (fun r hr => by injection hr with hr; have := HGE3.out; omega)); clear hr9 hg9 hz9 Ngr_8 HF_8)) | fail)
  obtain ⟨tr, htr⟩ := Ngr_9.out
  refine bodyPost_ret (results_cell_row rfl _ _ w.heap.size tr (bcs (encs [d])).toArray _ _ rfl htr under23 rfl (by rw [List.size_toArray, bcs_len, encs_len]; exact size23)) rfl ?_
  exact ⟨by rw [← vR_one]; rfl, HF_9.out⟩

def cF : Fin PP := ⟨121666, by unfold PP; omega⟩
def eF : Fin PP := ⟨121665, by unfold PP; omega⟩
theorem d_is : dF * cF = -eF := by decide +kernel
theorem c_ne : cF ≠ 0 := fun h => by
  have := congrArg Fin.val h
  have h0 : (0 : Fin PP).val = 0 := rfl
  rw [h0] at this
  exact absurd this (by decide)
theorem d_val : (-eF) * fInv cF = dF := by
  have h := fInv_mul c_ne
  rw [← d_is]
  generalize fInv cF = v at *
  grind
theorem rD_any (w : World) : Calls Try.prog 46 #[] w (Gives (vN dN) w) := by
  obtain ⟨q, hq⟩ := q_ex
  have h1 : ∀ w, Calls Try.prog 24 #[vN 121665] w (Gives (vN (-eF).val) w) := fun w => gives_N (by show (PP - 121665 % PP) % PP = (PP - 121665) % PP; rw [Nat.mod_eq_of_lt (by unfold PP; omega : 121665 < PP)]) (rNeg_any 121665 (by unfold TT; omega) w)
  have h2 : ∀ w, Calls Try.prog 30 #[vN 121666] w (Gives (vN (fInv cF).val) w) := fun w => by
    rw [fInv_val cF q hq]
    exact rInv_any q hq 121666 (by unfold TT; omega) w
  have h3 : ∀ w, Calls Try.prog 26 #[vN (-eF).val, vN (fInv cF).val] w (Gives (vN dN) w) := fun w => by
    have h := rMul_any (-eF).val (fInv cF).val (fT _) (fT _) w
    rw [← Fin.val_mul, d_val] at h
    exact h
  exact rD_core _ _ _ _ _ w (Lib.hid fun w => rOf_core 121665 (by omega) w) (Lib.hid h1) (Lib.hid fun w => rOf_core 121666 (by omega) w) (Lib.hid h2) (Lib.hid h3)
end Go.Proofs.Ytgdimnbdnepbgaa
