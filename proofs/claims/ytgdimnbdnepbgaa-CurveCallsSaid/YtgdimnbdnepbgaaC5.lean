/- Several texts in one. No statement is proved here. -/
import Derived.Test.YtgdimnbdnepbgaaC4
import Derived.Test.YtgdimnbdnepbgaaC2
import Derived.Test.YtgdimnbdnepbgaaC3
import Derived.ChangeSame
/- The reference's functions of numbers. No statement is proved here. -/
namespace Go.Proofs.Ytgdimnbdnepbgaa
open Go.RowKit
set_option linter.unusedVariables false
set_option maxRecDepth 40000
set_option linter.unusedSimpArgs false


set_option maxHeartbeats 1000000 in
theorem rAdd_core (a b n : Nat) (x y z : List Nat) (w : World)
    (HA : Hid (∀ w, Calls Try.prog 68 #[vN a] w (Gives (.agg (ics x).toArray) w))) (HBb : Hid (∀ w, Calls Try.prog 68 #[vN b] w (Gives (.agg (ics y).toArray) w))) (HP : Hid (∀ w, Calls Try.prog 71 #[.agg (ics x).toArray, .agg (ics y).toArray] w (Gives (.agg (ics z).toArray) w))) (HC : Hid (∀ w, Calls Try.prog 67 #[.agg (ics z).toArray] w (Gives (vN n) w))) :
    Calls Try.prog 20 #[vN a, vN b] w (Gives (vN n) w) := by
  go_enter Try.func20, Try.ntmps20
  go_wp2_with (first | ((with_reducible show wpList _ _ _ (⟨some 2, .box 23 (.tmp 0), _, _, _, _⟩ :: _) _ _); go_must (refine wpList_box_row rfl 23 (.tmp 0) rfl (bcs (enc a)).toArray rfl ?_; intro w1 h1 z1 g1; have H1 := Lib.hid h1; have Z1 := Lib.hid z1; have G1 := Lib.hid g1; clear h1 z1 g1)) | ((with_reducible show wpList _ _ _ (⟨some 3, .box 23 (.tmp 1), _, _, _, _⟩ :: _) _ _); go_must (refine wpList_box_row rfl 23 (.tmp 1) rfl (bcs (enc b)).toArray rfl ?_; intro w2 h1 z1 g1; have H2 := Lib.hid h1; have Z2 := Lib.hid z1; have G2 := Lib.hid g1; clear h1 z1 g1)) | ((with_reducible show wpList _ _ _ (⟨some 4, .alloc 23, _, _, _, _⟩ :: _) _ _); go_must (refine wpList_alloc_row rfl 23 rfl (.agg (zbs 32)) zero23 ?_; intro w3 h1 z1 g1; have H3 := Lib.hid h1; have Z3 := Lib.hid z1; have G3 := Lib.hid g1; clear h1 z1 g1)))
  have R : Hid (NAt w3 w.heap.size a) := (NAt.grown ⟨23, H1.out⟩ G2.out (by simp)).grown G3.out (by simp)
  have Q : Hid (NAt w3 (w.heap.size + 1) b) := by
    have h := H2.out
    rw [Z1.out] at h
    exact NAt.grown ⟨23, h⟩ G3.out (by simp)
  have HB : Hid (Below w.heap.size w w3) := (below_of_grownBy G1.out).trans (((below_of_grownBy G2.out).mono (by have := Z1.out; omega)).trans ((below_of_grownBy G3.out).mono (by have := Z1.out; have := Z2.out; omega)))
  have Z : Hid (ZAt w3 (w.heap.size + 2)) := by
    have h := H3.out
    rw [Z2.out, Z1.out] at h
    exact h
  rw [show w2.heap.size = w.heap.size + 2 from by rw [Z2.out, Z1.out], show w1.heap.size = w.heap.size + 1 from Z1.out]
  have HLTwheapsize : Hid (w.heap.size < w3.heap.size) := R.out.lt
  have HLTwheapsizep1 : Hid (w.heap.size + 1 < w3.heap.size) := Q.out.lt
  have HLTwheapsizep2 : Hid (w.heap.size + 2 < w3.heap.size) := Z.out.lt
  clear H1 Z1 G1 H2 Z2 G2 H3 Z3 G3
  refine region_split (fun a' W => NAt W (w.heap.size + 2) n ∧ Below w.heap.size w W ∧ a' = ⟨#[vN a, vN b, .pointer (some ⟨w.heap.size, 0, none⟩), .pointer (some ⟨w.heap.size + 1, 0, none⟩), .pointer (some ⟨w.heap.size + 2, 0, none⟩), vN a, .agg (ics x).toArray, vN b, .agg (ics y).toArray, .agg (ics z).toArray, vN n], []⟩) ?_ ?_
  · refine startW (fun j => j == 6) (w3.heap.size) (by kernel_rfl) ?_
    obtain ⟨D1, hD1⟩ : ∃ D, D = w3.drew := ⟨_, rfl⟩
    rw [← hD1]
    have HLD1 : Hid (w3.heap.size ≤ D1.heap.size) := Lib.hid (by rw [hD1]; exact Nat.le_refl _)
    have HBD1 : Hid (Below w.heap.size w D1) := Lib.hid (by rw [hD1]; exact below_drewN' HB.out 1)
    have R0D1 : Hid (NAt D1 (w.heap.size) a) := Lib.hid (by rw [hD1]; exact R.out)
    have R1D1 : Hid (NAt D1 (w.heap.size + 1) b) := Lib.hid (by rw [hD1]; exact Q.out)
    have Z0D1 : Hid (ZAt D1 (w.heap.size + 2)) := Lib.hid (by rw [hD1]; exact Z.out)
    clear hD1
    refine takeT (i := 0) (oi := { dst := some 5, op := Op.load 23 (Operand.tmp 2), type := 23, pos := "ref.go:130", after := #[], guard := none }) (vN a) rfl (by kernel_rfl) (by kernel_rfl) (by kernel_rfl) (by kernel_rfl) (by kernel_rfl) (fun _ _ _ h => nomatch h.1) (by rfl) (fun w' hk => exec_load23 (.tmp 2) rfl (w.heap.size) a rfl (R0D1.out.below hk HLTwheapsize.out)) ?_
    simp only [Act.put, List.setIfInBounds_toArray, List.set_cons_zero, List.set_cons_succ]
    refine takeT (i := 2) (oi := { dst := some 7, op := Op.load 23 (Operand.tmp 3), type := 23, pos := "ref.go:130", after := #[], guard := none }) (vN b) rfl (by kernel_rfl) (by kernel_rfl) (by kernel_rfl) (by kernel_rfl) (by kernel_rfl) (fun _ _ _ h => nomatch h.1) (by rfl) (fun w' hk => exec_load23 (.tmp 3) rfl (w.heap.size + 1) b rfl (R1D1.out.below hk HLTwheapsizep1.out)) ?_
    simp only [Act.put, List.setIfInBounds_toArray, List.set_cons_zero, List.set_cons_succ]
    refine callW (i := 1) (oi := { dst := some 6, op := Op.call { callee := Callee.value (Operand.func 68), args := #[Operand.tmp 5], argTypes := #[23] }, type := 65, pos := "ref.go:130", after := #[{ on := 0, ground := Ground.data }], guard := none }) rfl (by kernel_rfl) (by rfl) (exec_callL 68 [.tmp 5] #[23] rfl [vN a] rfl (CG68 _)) ((HA.out D1).mono ?_)
    rintro eW2 W2 ⟨rfl, hbW2⟩
    refine ⟨_, rfl, fun _ => hbW2.mono HLD1.out, ?_⟩
    have HBW2 : Hid (Below w.heap.size w W2) := Lib.hid (HBD1.out.trans (hbW2.mono HBD1.out.size))
    have HLW2 : Hid (w3.heap.size ≤ W2.heap.size) := Lib.hid (Nat.le_trans HLD1.out hbW2.size)
    have R0D1_W2 := Lib.hid (R0D1.out.keep hbW2)
    have R1D1_W2 := Lib.hid (R1D1.out.keep hbW2)
    have Z0D1_W2 := Lib.hid (Z0D1.out.keep hbW2)
    clear hbW2 HBD1 HLD1 R0D1 R1D1 Z0D1
    simp only [Act.put, List.setIfInBounds_toArray, List.set_cons_zero, List.set_cons_succ]
    refine callW (i := 3) (oi := { dst := some 8, op := Op.call { callee := Callee.value (Operand.func 68), args := #[Operand.tmp 7], argTypes := #[23] }, type := 65, pos := "ref.go:130", after := #[{ on := 2, ground := Ground.data }, { on := 1, ground := Ground.chain }], guard := none }) rfl (by kernel_rfl) (by rfl) (exec_callL 68 [.tmp 7] #[23] rfl [vN b] rfl (CG68 _)) ((HBb.out W2).mono ?_)
    rintro eW3 W3 ⟨rfl, hbW3⟩
    refine ⟨_, rfl, fun _ => hbW3.mono HLW2.out, ?_⟩
    have HBW3 : Hid (Below w.heap.size w W3) := Lib.hid (HBW2.out.trans (hbW3.mono HBW2.out.size))
    have HLW3 : Hid (w3.heap.size ≤ W3.heap.size) := Lib.hid (Nat.le_trans HLW2.out hbW3.size)
    have R0D1_W3 := Lib.hid (R0D1_W2.out.keep hbW3)
    have R1D1_W3 := Lib.hid (R1D1_W2.out.keep hbW3)
    have Z0D1_W3 := Lib.hid (Z0D1_W2.out.keep hbW3)
    clear hbW3 HBW2 HLW2 R0D1_W2 R1D1_W2 Z0D1_W2
    simp only [Act.put, List.setIfInBounds_toArray, List.set_cons_zero, List.set_cons_succ]
    refine callW (i := 4) (oi := { dst := some 9, op := Op.call { callee := Callee.value (Operand.func 71), args := #[Operand.tmp 6, Operand.tmp 8], argTypes := #[65, 65] }, type := 65, pos := "ref.go:130", after := #[{ on := 1, ground := Ground.data }, { on := 3, ground := Ground.data }, { on := 3, ground := Ground.chain }], guard := none }) rfl (by kernel_rfl) (by rfl) (exec_callL 71 [.tmp 6, .tmp 8] #[65, 65] rfl [.agg (ics x).toArray, .agg (ics y).toArray] rfl (CG71 _)) ((HP.out W3).mono ?_)
    rintro eW4 W4 ⟨rfl, hbW4⟩
    refine ⟨_, rfl, fun _ => hbW4.mono HLW3.out, ?_⟩
    have HBW4 : Hid (Below w.heap.size w W4) := Lib.hid (HBW3.out.trans (hbW4.mono HBW3.out.size))
    have HLW4 : Hid (w3.heap.size ≤ W4.heap.size) := Lib.hid (Nat.le_trans HLW3.out hbW4.size)
    have R0D1_W4 := Lib.hid (R0D1_W3.out.keep hbW4)
    have R1D1_W4 := Lib.hid (R1D1_W3.out.keep hbW4)
    have Z0D1_W4 := Lib.hid (Z0D1_W3.out.keep hbW4)
    clear hbW4 HBW3 HLW3 R0D1_W3 R1D1_W3 Z0D1_W3
    simp only [Act.put, List.setIfInBounds_toArray, List.set_cons_zero, List.set_cons_succ]
    refine callW (i := 5) (oi := { dst := some 10, op := Op.call { callee := Callee.value (Operand.func 67), args := #[Operand.tmp 9], argTypes := #[65] }, type := 23, pos := "ref.go:130", after := #[{ on := 4, ground := Ground.data }, { on := 4, ground := Ground.chain }], guard := none }) rfl (by kernel_rfl) (by rfl) (exec_callL 67 [.tmp 9] #[65] rfl [.agg (ics z).toArray] rfl (CG67 _)) ((HC.out W4).mono ?_)
    rintro eW5 W5 ⟨rfl, hbW5⟩
    refine ⟨_, rfl, fun _ => hbW5.mono HLW4.out, ?_⟩
    have HBW5 : Hid (Below w.heap.size w W5) := Lib.hid (HBW4.out.trans (hbW5.mono HBW4.out.size))
    have HLW5 : Hid (w3.heap.size ≤ W5.heap.size) := Lib.hid (Nat.le_trans HLW4.out hbW5.size)
    have R0D1_W5 := Lib.hid (R0D1_W4.out.keep hbW5)
    have R1D1_W5 := Lib.hid (R1D1_W4.out.keep hbW5)
    have Z0D1_W5 := Lib.hid (Z0D1_W4.out.keep hbW5)
    clear hbW5 HBW4 HLW4 R0D1_W4 R1D1_W4 Z0D1_W4
    simp only [Act.put, List.setIfInBounds_toArray, List.set_cons_zero, List.set_cons_succ]
    refine storeW_all (i := 6) (oi := { dst := none, op := Op.store 23 (Operand.tmp 4) (Operand.tmp 10), type := 0, pos := "ref.go:130", after := #[{ on := 5, ground := Ground.data }, { on := 5, ground := Ground.chain }, { on := 0, ground := Ground.phase }, { on := 1, ground := Ground.phase }, { on := 2, ground := Ground.phase }, { on := 3, ground := Ground.phase }, { on := 4, ground := Ground.phase }, { on := 5, ground := Ground.phase }], guard := none }) rfl (by kernel_rfl) (by rfl) 23 (.tmp 4) (.tmp 10) rfl (w.heap.size + 2) rfl (bcs (enc n)).toArray rfl 23 _ Z0D1_W5.out (by rw [List.size_toArray, bcs_enc_len]; exact size23) (by rw [List.size_toArray, bcs_enc_len]; rfl) (bcs_one _) rfl ?_
    intro W6 hhW6 hgW6 hzW6
    simp only [Act.put, List.setIfInBounds_toArray, List.set_cons_zero, List.set_cons_succ]
    have R0D1_W6 := Lib.hid (R0D1_W5.out.grown hgW6 (by simp))
    have R1D1_W6 := Lib.hid (R1D1_W5.out.grown hgW6 (by simp))
    have Swheapsizep2_W6 : Hid (NAt W6 (w.heap.size + 2) n) := Lib.hid ⟨23, hhW6⟩
    have HBW6 : Hid (Below w.heap.size w W6) := Lib.hid (HBW5.out.grown hgW6 HBW5.out.size (fun r hr => by injection hr with hr; omega))
    have HLW6 : Hid (w3.heap.size ≤ W6.heap.size) := Lib.hid (Nat.le_trans HLW5.out hgW6.size)
    clear hhW6 hgW6 hzW6 HBW5 HLW5 R0D1_W5 R1D1_W5 Z0D1_W5
    refine doneW (by kernel_rfl) ⟨rfl, ?_⟩ _
    exact ⟨Swheapsizep2_W6.out, HBW6.out, rfl⟩
  rintro a' W ⟨⟨t, ht⟩, hb, rfl⟩
  have HH := Lib.hid ht
  have HBel := Lib.hid hb
  clear ht hb R Q HB Z HLTwheapsize HLTwheapsizep1 HLTwheapsizep2 HA HBb HP HC
  go_wp2
  refine bodyPost_ret (results_cell_row rfl _ _ (w.heap.size + 2) t (bcs (enc n)).toArray _ _ rfl HH.out under23 rfl (by rw [List.size_toArray, bcs_enc_len]; exact size23)) rfl ?_
  exact ⟨rfl, HBel.out⟩

set_option maxHeartbeats 1000000 in
theorem rSub_core (a b n : Nat) (x y z : List Nat) (w : World)
    (HA : Hid (∀ w, Calls Try.prog 68 #[vN a] w (Gives (.agg (ics x).toArray) w))) (HBb : Hid (∀ w, Calls Try.prog 68 #[vN b] w (Gives (.agg (ics y).toArray) w))) (HP : Hid (∀ w, Calls Try.prog 73 #[.agg (ics x).toArray, .agg (ics y).toArray] w (Gives (.agg (ics z).toArray) w))) (HC : Hid (∀ w, Calls Try.prog 67 #[.agg (ics z).toArray] w (Gives (vN n) w))) :
    Calls Try.prog 22 #[vN a, vN b] w (Gives (vN n) w) := by
  go_enter Try.func22, Try.ntmps22
  go_wp2_with (first | ((with_reducible show wpList _ _ _ (⟨some 2, .box 23 (.tmp 0), _, _, _, _⟩ :: _) _ _); go_must (refine wpList_box_row rfl 23 (.tmp 0) rfl (bcs (enc a)).toArray rfl ?_; intro w1 h1 z1 g1; have H1 := Lib.hid h1; have Z1 := Lib.hid z1; have G1 := Lib.hid g1; clear h1 z1 g1)) | ((with_reducible show wpList _ _ _ (⟨some 3, .box 23 (.tmp 1), _, _, _, _⟩ :: _) _ _); go_must (refine wpList_box_row rfl 23 (.tmp 1) rfl (bcs (enc b)).toArray rfl ?_; intro w2 h1 z1 g1; have H2 := Lib.hid h1; have Z2 := Lib.hid z1; have G2 := Lib.hid g1; clear h1 z1 g1)) | ((with_reducible show wpList _ _ _ (⟨some 4, .alloc 23, _, _, _, _⟩ :: _) _ _); go_must (refine wpList_alloc_row rfl 23 rfl (.agg (zbs 32)) zero23 ?_; intro w3 h1 z1 g1; have H3 := Lib.hid h1; have Z3 := Lib.hid z1; have G3 := Lib.hid g1; clear h1 z1 g1)))
  have R : Hid (NAt w3 w.heap.size a) := (NAt.grown ⟨23, H1.out⟩ G2.out (by simp)).grown G3.out (by simp)
  have Q : Hid (NAt w3 (w.heap.size + 1) b) := by
    have h := H2.out
    rw [Z1.out] at h
    exact NAt.grown ⟨23, h⟩ G3.out (by simp)
  have HB : Hid (Below w.heap.size w w3) := (below_of_grownBy G1.out).trans (((below_of_grownBy G2.out).mono (by have := Z1.out; omega)).trans ((below_of_grownBy G3.out).mono (by have := Z1.out; have := Z2.out; omega)))
  have Z : Hid (ZAt w3 (w.heap.size + 2)) := by
    have h := H3.out
    rw [Z2.out, Z1.out] at h
    exact h
  rw [show w2.heap.size = w.heap.size + 2 from by rw [Z2.out, Z1.out], show w1.heap.size = w.heap.size + 1 from Z1.out]
  have HLTwheapsize : Hid (w.heap.size < w3.heap.size) := R.out.lt
  have HLTwheapsizep1 : Hid (w.heap.size + 1 < w3.heap.size) := Q.out.lt
  have HLTwheapsizep2 : Hid (w.heap.size + 2 < w3.heap.size) := Z.out.lt
  clear H1 Z1 G1 H2 Z2 G2 H3 Z3 G3
  refine region_split (fun a' W => NAt W (w.heap.size + 2) n ∧ Below w.heap.size w W ∧ a' = ⟨#[vN a, vN b, .pointer (some ⟨w.heap.size, 0, none⟩), .pointer (some ⟨w.heap.size + 1, 0, none⟩), .pointer (some ⟨w.heap.size + 2, 0, none⟩), vN a, .agg (ics x).toArray, vN b, .agg (ics y).toArray, .agg (ics z).toArray, vN n], []⟩) ?_ ?_
  · refine startW (fun j => j == 6) (w3.heap.size) (by kernel_rfl) ?_
    obtain ⟨D7, hD7⟩ : ∃ D, D = w3.drew := ⟨_, rfl⟩
    rw [← hD7]
    have HLD7 : Hid (w3.heap.size ≤ D7.heap.size) := Lib.hid (by rw [hD7]; exact Nat.le_refl _)
    have HBD7 : Hid (Below w.heap.size w D7) := Lib.hid (by rw [hD7]; exact below_drewN' HB.out 1)
    have R0D7 : Hid (NAt D7 (w.heap.size) a) := Lib.hid (by rw [hD7]; exact R.out)
    have R1D7 : Hid (NAt D7 (w.heap.size + 1) b) := Lib.hid (by rw [hD7]; exact Q.out)
    have Z0D7 : Hid (ZAt D7 (w.heap.size + 2)) := Lib.hid (by rw [hD7]; exact Z.out)
    clear hD7
    refine takeT (i := 0) (oi := { dst := some 5, op := Op.load 23 (Operand.tmp 2), type := 23, pos := "ref.go:133", after := #[], guard := none }) (vN a) rfl (by kernel_rfl) (by kernel_rfl) (by kernel_rfl) (by kernel_rfl) (by kernel_rfl) (fun _ _ _ h => nomatch h.1) (by rfl) (fun w' hk => exec_load23 (.tmp 2) rfl (w.heap.size) a rfl (R0D7.out.below hk HLTwheapsize.out)) ?_
    simp only [Act.put, List.setIfInBounds_toArray, List.set_cons_zero, List.set_cons_succ]
    refine takeT (i := 2) (oi := { dst := some 7, op := Op.load 23 (Operand.tmp 3), type := 23, pos := "ref.go:133", after := #[], guard := none }) (vN b) rfl (by kernel_rfl) (by kernel_rfl) (by kernel_rfl) (by kernel_rfl) (by kernel_rfl) (fun _ _ _ h => nomatch h.1) (by rfl) (fun w' hk => exec_load23 (.tmp 3) rfl (w.heap.size + 1) b rfl (R1D7.out.below hk HLTwheapsizep1.out)) ?_
    simp only [Act.put, List.setIfInBounds_toArray, List.set_cons_zero, List.set_cons_succ]
    refine callW (i := 1) (oi := { dst := some 6, op := Op.call { callee := Callee.value (Operand.func 68), args := #[Operand.tmp 5], argTypes := #[23] }, type := 65, pos := "ref.go:133", after := #[{ on := 0, ground := Ground.data }], guard := none }) rfl (by kernel_rfl) (by rfl) (exec_callL 68 [.tmp 5] #[23] rfl [vN a] rfl (CG68 _)) ((HA.out D7).mono ?_)
    rintro eW8 W8 ⟨rfl, hbW8⟩
    refine ⟨_, rfl, fun _ => hbW8.mono HLD7.out, ?_⟩
    have HBW8 : Hid (Below w.heap.size w W8) := Lib.hid (HBD7.out.trans (hbW8.mono HBD7.out.size))
    have HLW8 : Hid (w3.heap.size ≤ W8.heap.size) := Lib.hid (Nat.le_trans HLD7.out hbW8.size)
    have R0D7_W8 := Lib.hid (R0D7.out.keep hbW8)
    have R1D7_W8 := Lib.hid (R1D7.out.keep hbW8)
    have Z0D7_W8 := Lib.hid (Z0D7.out.keep hbW8)
    clear hbW8 HBD7 HLD7 R0D7 R1D7 Z0D7
    simp only [Act.put, List.setIfInBounds_toArray, List.set_cons_zero, List.set_cons_succ]
    refine callW (i := 3) (oi := { dst := some 8, op := Op.call { callee := Callee.value (Operand.func 68), args := #[Operand.tmp 7], argTypes := #[23] }, type := 65, pos := "ref.go:133", after := #[{ on := 2, ground := Ground.data }, { on := 1, ground := Ground.chain }], guard := none }) rfl (by kernel_rfl) (by rfl) (exec_callL 68 [.tmp 7] #[23] rfl [vN b] rfl (CG68 _)) ((HBb.out W8).mono ?_)
    rintro eW9 W9 ⟨rfl, hbW9⟩
    refine ⟨_, rfl, fun _ => hbW9.mono HLW8.out, ?_⟩
    have HBW9 : Hid (Below w.heap.size w W9) := Lib.hid (HBW8.out.trans (hbW9.mono HBW8.out.size))
    have HLW9 : Hid (w3.heap.size ≤ W9.heap.size) := Lib.hid (Nat.le_trans HLW8.out hbW9.size)
    have R0D7_W9 := Lib.hid (R0D7_W8.out.keep hbW9)
    have R1D7_W9 := Lib.hid (R1D7_W8.out.keep hbW9)
    have Z0D7_W9 := Lib.hid (Z0D7_W8.out.keep hbW9)
    clear hbW9 HBW8 HLW8 R0D7_W8 R1D7_W8 Z0D7_W8
    simp only [Act.put, List.setIfInBounds_toArray, List.set_cons_zero, List.set_cons_succ]
    refine callW (i := 4) (oi := { dst := some 9, op := Op.call { callee := Callee.value (Operand.func 73), args := #[Operand.tmp 6, Operand.tmp 8], argTypes := #[65, 65] }, type := 65, pos := "ref.go:133", after := #[{ on := 1, ground := Ground.data }, { on := 3, ground := Ground.data }, { on := 3, ground := Ground.chain }], guard := none }) rfl (by kernel_rfl) (by rfl) (exec_callL 73 [.tmp 6, .tmp 8] #[65, 65] rfl [.agg (ics x).toArray, .agg (ics y).toArray] rfl (CG73 _)) ((HP.out W9).mono ?_)
    rintro eW10 W10 ⟨rfl, hbW10⟩
    refine ⟨_, rfl, fun _ => hbW10.mono HLW9.out, ?_⟩
    have HBW10 : Hid (Below w.heap.size w W10) := Lib.hid (HBW9.out.trans (hbW10.mono HBW9.out.size))
    have HLW10 : Hid (w3.heap.size ≤ W10.heap.size) := Lib.hid (Nat.le_trans HLW9.out hbW10.size)
    have R0D7_W10 := Lib.hid (R0D7_W9.out.keep hbW10)
    have R1D7_W10 := Lib.hid (R1D7_W9.out.keep hbW10)
    have Z0D7_W10 := Lib.hid (Z0D7_W9.out.keep hbW10)
    clear hbW10 HBW9 HLW9 R0D7_W9 R1D7_W9 Z0D7_W9
    simp only [Act.put, List.setIfInBounds_toArray, List.set_cons_zero, List.set_cons_succ]
    refine callW (i := 5) (oi := { dst := some 10, op := Op.call { callee := Callee.value (Operand.func 67), args := #[Operand.tmp 9], argTypes := #[65] }, type := 23, pos := "ref.go:133", after := #[{ on := 4, ground := Ground.data }, { on := 4, ground := Ground.chain }], guard := none }) rfl (by kernel_rfl) (by rfl) (exec_callL 67 [.tmp 9] #[65] rfl [.agg (ics z).toArray] rfl (CG67 _)) ((HC.out W10).mono ?_)
    rintro eW11 W11 ⟨rfl, hbW11⟩
    refine ⟨_, rfl, fun _ => hbW11.mono HLW10.out, ?_⟩
    have HBW11 : Hid (Below w.heap.size w W11) := Lib.hid (HBW10.out.trans (hbW11.mono HBW10.out.size))
    have HLW11 : Hid (w3.heap.size ≤ W11.heap.size) := Lib.hid (Nat.le_trans HLW10.out hbW11.size)
    have R0D7_W11 := Lib.hid (R0D7_W10.out.keep hbW11)
    have R1D7_W11 := Lib.hid (R1D7_W10.out.keep hbW11)
    have Z0D7_W11 := Lib.hid (Z0D7_W10.out.keep hbW11)
    clear hbW11 HBW10 HLW10 R0D7_W10 R1D7_W10 Z0D7_W10
    simp only [Act.put, List.setIfInBounds_toArray, List.set_cons_zero, List.set_cons_succ]
    refine storeW_all (i := 6) (oi := { dst := none, op := Op.store 23 (Operand.tmp 4) (Operand.tmp 10), type := 0, pos := "ref.go:133", after := #[{ on := 5, ground := Ground.data }, { on := 5, ground := Ground.chain }, { on := 0, ground := Ground.phase }, { on := 1, ground := Ground.phase }, { on := 2, ground := Ground.phase }, { on := 3, ground := Ground.phase }, { on := 4, ground := Ground.phase }, { on := 5, ground := Ground.phase }], guard := none }) rfl (by kernel_rfl) (by rfl) 23 (.tmp 4) (.tmp 10) rfl (w.heap.size + 2) rfl (bcs (enc n)).toArray rfl 23 _ Z0D7_W11.out (by rw [List.size_toArray, bcs_enc_len]; exact size23) (by rw [List.size_toArray, bcs_enc_len]; rfl) (bcs_one _) rfl ?_
    intro W12 hhW12 hgW12 hzW12
    simp only [Act.put, List.setIfInBounds_toArray, List.set_cons_zero, List.set_cons_succ]
    have R0D7_W12 := Lib.hid (R0D7_W11.out.grown hgW12 (by simp))
    have R1D7_W12 := Lib.hid (R1D7_W11.out.grown hgW12 (by simp))
    have Swheapsizep2_W12 : Hid (NAt W12 (w.heap.size + 2) n) := Lib.hid ⟨23, hhW12⟩
    have HBW12 : Hid (Below w.heap.size w W12) := Lib.hid (HBW11.out.grown hgW12 HBW11.out.size (fun r hr => by injection hr with hr; omega))
    have HLW12 : Hid (w3.heap.size ≤ W12.heap.size) := Lib.hid (Nat.le_trans HLW11.out hgW12.size)
    clear hhW12 hgW12 hzW12 HBW11 HLW11 R0D7_W11 R1D7_W11 Z0D7_W11
    refine doneW (by kernel_rfl) ⟨rfl, ?_⟩ _
    exact ⟨Swheapsizep2_W12.out, HBW12.out, rfl⟩
  rintro a' W ⟨⟨t, ht⟩, hb, rfl⟩
  have HH := Lib.hid ht
  have HBel := Lib.hid hb
  clear ht hb R Q HB Z HLTwheapsize HLTwheapsizep1 HLTwheapsizep2 HA HBb HP HC
  go_wp2
  refine bodyPost_ret (results_cell_row rfl _ _ (w.heap.size + 2) t (bcs (enc n)).toArray _ _ rfl HH.out under23 rfl (by rw [List.size_toArray, bcs_enc_len]; exact size23)) rfl ?_
  exact ⟨rfl, HBel.out⟩

set_option maxHeartbeats 1000000 in
theorem rMul_core (a b n : Nat) (x y z : List Nat) (w : World)
    (HA : Hid (∀ w, Calls Try.prog 68 #[vN a] w (Gives (.agg (ics x).toArray) w))) (HBb : Hid (∀ w, Calls Try.prog 68 #[vN b] w (Gives (.agg (ics y).toArray) w))) (HP : Hid (∀ w, Calls Try.prog 75 #[.agg (ics x).toArray, .agg (ics y).toArray] w (Gives (.agg (ics z).toArray) w))) (HC : Hid (∀ w, Calls Try.prog 67 #[.agg (ics z).toArray] w (Gives (vN n) w))) :
    Calls Try.prog 26 #[vN a, vN b] w (Gives (vN n) w) := by
  go_enter Try.func26, Try.ntmps26
  go_wp2_with (first | ((with_reducible show wpList _ _ _ (⟨some 2, .box 23 (.tmp 0), _, _, _, _⟩ :: _) _ _); go_must (refine wpList_box_row rfl 23 (.tmp 0) rfl (bcs (enc a)).toArray rfl ?_; intro w1 h1 z1 g1; have H1 := Lib.hid h1; have Z1 := Lib.hid z1; have G1 := Lib.hid g1; clear h1 z1 g1)) | ((with_reducible show wpList _ _ _ (⟨some 3, .box 23 (.tmp 1), _, _, _, _⟩ :: _) _ _); go_must (refine wpList_box_row rfl 23 (.tmp 1) rfl (bcs (enc b)).toArray rfl ?_; intro w2 h1 z1 g1; have H2 := Lib.hid h1; have Z2 := Lib.hid z1; have G2 := Lib.hid g1; clear h1 z1 g1)) | ((with_reducible show wpList _ _ _ (⟨some 4, .alloc 23, _, _, _, _⟩ :: _) _ _); go_must (refine wpList_alloc_row rfl 23 rfl (.agg (zbs 32)) zero23 ?_; intro w3 h1 z1 g1; have H3 := Lib.hid h1; have Z3 := Lib.hid z1; have G3 := Lib.hid g1; clear h1 z1 g1)))
  have R : Hid (NAt w3 w.heap.size a) := (NAt.grown ⟨23, H1.out⟩ G2.out (by simp)).grown G3.out (by simp)
  have Q : Hid (NAt w3 (w.heap.size + 1) b) := by
    have h := H2.out
    rw [Z1.out] at h
    exact NAt.grown ⟨23, h⟩ G3.out (by simp)
  have HB : Hid (Below w.heap.size w w3) := (below_of_grownBy G1.out).trans (((below_of_grownBy G2.out).mono (by have := Z1.out; omega)).trans ((below_of_grownBy G3.out).mono (by have := Z1.out; have := Z2.out; omega)))
  have Z : Hid (ZAt w3 (w.heap.size + 2)) := by
    have h := H3.out
    rw [Z2.out, Z1.out] at h
    exact h
  rw [show w2.heap.size = w.heap.size + 2 from by rw [Z2.out, Z1.out], show w1.heap.size = w.heap.size + 1 from Z1.out]
  have HLTwheapsize : Hid (w.heap.size < w3.heap.size) := R.out.lt
  have HLTwheapsizep1 : Hid (w.heap.size + 1 < w3.heap.size) := Q.out.lt
  have HLTwheapsizep2 : Hid (w.heap.size + 2 < w3.heap.size) := Z.out.lt
  clear H1 Z1 G1 H2 Z2 G2 H3 Z3 G3
  refine region_split (fun a' W => NAt W (w.heap.size + 2) n ∧ Below w.heap.size w W ∧ a' = ⟨#[vN a, vN b, .pointer (some ⟨w.heap.size, 0, none⟩), .pointer (some ⟨w.heap.size + 1, 0, none⟩), .pointer (some ⟨w.heap.size + 2, 0, none⟩), vN a, .agg (ics x).toArray, vN b, .agg (ics y).toArray, .agg (ics z).toArray, vN n], []⟩) ?_ ?_
  · refine startW (fun j => j == 6) (w3.heap.size) (by kernel_rfl) ?_
    obtain ⟨D13, hD13⟩ : ∃ D, D = w3.drew := ⟨_, rfl⟩
    rw [← hD13]
    have HLD13 : Hid (w3.heap.size ≤ D13.heap.size) := Lib.hid (by rw [hD13]; exact Nat.le_refl _)
    have HBD13 : Hid (Below w.heap.size w D13) := Lib.hid (by rw [hD13]; exact below_drewN' HB.out 1)
    have R0D13 : Hid (NAt D13 (w.heap.size) a) := Lib.hid (by rw [hD13]; exact R.out)
    have R1D13 : Hid (NAt D13 (w.heap.size + 1) b) := Lib.hid (by rw [hD13]; exact Q.out)
    have Z0D13 : Hid (ZAt D13 (w.heap.size + 2)) := Lib.hid (by rw [hD13]; exact Z.out)
    clear hD13
    refine takeT (i := 0) (oi := { dst := some 5, op := Op.load 23 (Operand.tmp 2), type := 23, pos := "ref.go:139", after := #[], guard := none }) (vN a) rfl (by kernel_rfl) (by kernel_rfl) (by kernel_rfl) (by kernel_rfl) (by kernel_rfl) (fun _ _ _ h => nomatch h.1) (by rfl) (fun w' hk => exec_load23 (.tmp 2) rfl (w.heap.size) a rfl (R0D13.out.below hk HLTwheapsize.out)) ?_
    simp only [Act.put, List.setIfInBounds_toArray, List.set_cons_zero, List.set_cons_succ]
    refine takeT (i := 2) (oi := { dst := some 7, op := Op.load 23 (Operand.tmp 3), type := 23, pos := "ref.go:139", after := #[], guard := none }) (vN b) rfl (by kernel_rfl) (by kernel_rfl) (by kernel_rfl) (by kernel_rfl) (by kernel_rfl) (fun _ _ _ h => nomatch h.1) (by rfl) (fun w' hk => exec_load23 (.tmp 3) rfl (w.heap.size + 1) b rfl (R1D13.out.below hk HLTwheapsizep1.out)) ?_
    simp only [Act.put, List.setIfInBounds_toArray, List.set_cons_zero, List.set_cons_succ]
    refine callW (i := 1) (oi := { dst := some 6, op := Op.call { callee := Callee.value (Operand.func 68), args := #[Operand.tmp 5], argTypes := #[23] }, type := 65, pos := "ref.go:139", after := #[{ on := 0, ground := Ground.data }], guard := none }) rfl (by kernel_rfl) (by rfl) (exec_callL 68 [.tmp 5] #[23] rfl [vN a] rfl (CG68 _)) ((HA.out D13).mono ?_)
    rintro eW14 W14 ⟨rfl, hbW14⟩
    refine ⟨_, rfl, fun _ => hbW14.mono HLD13.out, ?_⟩
    have HBW14 : Hid (Below w.heap.size w W14) := Lib.hid (HBD13.out.trans (hbW14.mono HBD13.out.size))
    have HLW14 : Hid (w3.heap.size ≤ W14.heap.size) := Lib.hid (Nat.le_trans HLD13.out hbW14.size)
    have R0D13_W14 := Lib.hid (R0D13.out.keep hbW14)
    have R1D13_W14 := Lib.hid (R1D13.out.keep hbW14)
    have Z0D13_W14 := Lib.hid (Z0D13.out.keep hbW14)
    clear hbW14 HBD13 HLD13 R0D13 R1D13 Z0D13
    simp only [Act.put, List.setIfInBounds_toArray, List.set_cons_zero, List.set_cons_succ]
    refine callW (i := 3) (oi := { dst := some 8, op := Op.call { callee := Callee.value (Operand.func 68), args := #[Operand.tmp 7], argTypes := #[23] }, type := 65, pos := "ref.go:139", after := #[{ on := 2, ground := Ground.data }, { on := 1, ground := Ground.chain }], guard := none }) rfl (by kernel_rfl) (by rfl) (exec_callL 68 [.tmp 7] #[23] rfl [vN b] rfl (CG68 _)) ((HBb.out W14).mono ?_)
    rintro eW15 W15 ⟨rfl, hbW15⟩
    refine ⟨_, rfl, fun _ => hbW15.mono HLW14.out, ?_⟩
    have HBW15 : Hid (Below w.heap.size w W15) := Lib.hid (HBW14.out.trans (hbW15.mono HBW14.out.size))
    have HLW15 : Hid (w3.heap.size ≤ W15.heap.size) := Lib.hid (Nat.le_trans HLW14.out hbW15.size)
    have R0D13_W15 := Lib.hid (R0D13_W14.out.keep hbW15)
    have R1D13_W15 := Lib.hid (R1D13_W14.out.keep hbW15)
    have Z0D13_W15 := Lib.hid (Z0D13_W14.out.keep hbW15)
    clear hbW15 HBW14 HLW14 R0D13_W14 R1D13_W14 Z0D13_W14
    simp only [Act.put, List.setIfInBounds_toArray, List.set_cons_zero, List.set_cons_succ]
    refine callW (i := 4) (oi := { dst := some 9, op := Op.call { callee := Callee.value (Operand.func 75), args := #[Operand.tmp 6, Operand.tmp 8], argTypes := #[65, 65] }, type := 65, pos := "ref.go:139", after := #[{ on := 1, ground := Ground.data }, { on := 3, ground := Ground.data }, { on := 3, ground := Ground.chain }], guard := none }) rfl (by kernel_rfl) (by rfl) (exec_callL 75 [.tmp 6, .tmp 8] #[65, 65] rfl [.agg (ics x).toArray, .agg (ics y).toArray] rfl (CG75 _)) ((HP.out W15).mono ?_)
    rintro eW16 W16 ⟨rfl, hbW16⟩
    refine ⟨_, rfl, fun _ => hbW16.mono HLW15.out, ?_⟩
    have HBW16 : Hid (Below w.heap.size w W16) := Lib.hid (HBW15.out.trans (hbW16.mono HBW15.out.size))
    have HLW16 : Hid (w3.heap.size ≤ W16.heap.size) := Lib.hid (Nat.le_trans HLW15.out hbW16.size)
    have R0D13_W16 := Lib.hid (R0D13_W15.out.keep hbW16)
    have R1D13_W16 := Lib.hid (R1D13_W15.out.keep hbW16)
    have Z0D13_W16 := Lib.hid (Z0D13_W15.out.keep hbW16)
    clear hbW16 HBW15 HLW15 R0D13_W15 R1D13_W15 Z0D13_W15
    simp only [Act.put, List.setIfInBounds_toArray, List.set_cons_zero, List.set_cons_succ]
    refine callW (i := 5) (oi := { dst := some 10, op := Op.call { callee := Callee.value (Operand.func 67), args := #[Operand.tmp 9], argTypes := #[65] }, type := 23, pos := "ref.go:139", after := #[{ on := 4, ground := Ground.data }, { on := 4, ground := Ground.chain }], guard := none }) rfl (by kernel_rfl) (by rfl) (exec_callL 67 [.tmp 9] #[65] rfl [.agg (ics z).toArray] rfl (CG67 _)) ((HC.out W16).mono ?_)
    rintro eW17 W17 ⟨rfl, hbW17⟩
    refine ⟨_, rfl, fun _ => hbW17.mono HLW16.out, ?_⟩
    have HBW17 : Hid (Below w.heap.size w W17) := Lib.hid (HBW16.out.trans (hbW17.mono HBW16.out.size))
    have HLW17 : Hid (w3.heap.size ≤ W17.heap.size) := Lib.hid (Nat.le_trans HLW16.out hbW17.size)
    have R0D13_W17 := Lib.hid (R0D13_W16.out.keep hbW17)
    have R1D13_W17 := Lib.hid (R1D13_W16.out.keep hbW17)
    have Z0D13_W17 := Lib.hid (Z0D13_W16.out.keep hbW17)
    clear hbW17 HBW16 HLW16 R0D13_W16 R1D13_W16 Z0D13_W16
    simp only [Act.put, List.setIfInBounds_toArray, List.set_cons_zero, List.set_cons_succ]
    refine storeW_all (i := 6) (oi := { dst := none, op := Op.store 23 (Operand.tmp 4) (Operand.tmp 10), type := 0, pos := "ref.go:139", after := #[{ on := 5, ground := Ground.data }, { on := 5, ground := Ground.chain }, { on := 0, ground := Ground.phase }, { on := 1, ground := Ground.phase }, { on := 2, ground := Ground.phase }, { on := 3, ground := Ground.phase }, { on := 4, ground := Ground.phase }, { on := 5, ground := Ground.phase }], guard := none }) rfl (by kernel_rfl) (by rfl) 23 (.tmp 4) (.tmp 10) rfl (w.heap.size + 2) rfl (bcs (enc n)).toArray rfl 23 _ Z0D13_W17.out (by rw [List.size_toArray, bcs_enc_len]; exact size23) (by rw [List.size_toArray, bcs_enc_len]; rfl) (bcs_one _) rfl ?_
    intro W18 hhW18 hgW18 hzW18
    simp only [Act.put, List.setIfInBounds_toArray, List.set_cons_zero, List.set_cons_succ]
    have R0D13_W18 := Lib.hid (R0D13_W17.out.grown hgW18 (by simp))
    have R1D13_W18 := Lib.hid (R1D13_W17.out.grown hgW18 (by simp))
    have Swheapsizep2_W18 : Hid (NAt W18 (w.heap.size + 2) n) := Lib.hid ⟨23, hhW18⟩
    have HBW18 : Hid (Below w.heap.size w W18) := Lib.hid (HBW17.out.grown hgW18 HBW17.out.size (fun r hr => by injection hr with hr; omega))
    have HLW18 : Hid (w3.heap.size ≤ W18.heap.size) := Lib.hid (Nat.le_trans HLW17.out hgW18.size)
    clear hhW18 hgW18 hzW18 HBW17 HLW17 R0D13_W17 R1D13_W17 Z0D13_W17
    refine doneW (by kernel_rfl) ⟨rfl, ?_⟩ _
    exact ⟨Swheapsizep2_W18.out, HBW18.out, rfl⟩
  rintro a' W ⟨⟨t, ht⟩, hb, rfl⟩
  have HH := Lib.hid ht
  have HBel := Lib.hid hb
  clear ht hb R Q HB Z HLTwheapsize HLTwheapsizep1 HLTwheapsizep2 HA HBb HP HC
  go_wp2
  refine bodyPost_ret (results_cell_row rfl _ _ (w.heap.size + 2) t (bcs (enc n)).toArray _ _ rfl HH.out under23 rfl (by rw [List.size_toArray, bcs_enc_len]; exact size23)) rfl ?_
  exact ⟨rfl, HBel.out⟩

set_option maxHeartbeats 1000000 in
theorem rPow_core (a b n : Nat) (x : List Nat) (GD : List Nat → Prop) (w : World)
    (HA : Hid (∀ w, Calls Try.prog 68 #[vN a] w (Gives (.agg (ics x).toArray) w))) (HP : Hid (∀ w, Calls Try.prog 77 #[.agg (ics x).toArray, vN b] w (fun e w' => ∃ o, GD o ∧ e = .returned (.agg (ics o).toArray) ∧ Below w.heap.size w w'))) (HC : Hid (∀ z, GD z → ∀ w, Calls Try.prog 67 #[.agg (ics z).toArray] w (Gives (vN n) w))) :
    Calls Try.prog 28 #[vN a, vN b] w (Gives (vN n) w) := by
  go_enter Try.func28, Try.ntmps28
  go_wp2_with (first | ((with_reducible show wpList _ _ _ (⟨some 2, .box 23 (.tmp 0), _, _, _, _⟩ :: _) _ _); go_must (refine wpList_box_row rfl 23 (.tmp 0) rfl (bcs (enc a)).toArray rfl ?_; intro w1 h1 z1 g1; have H1 := Lib.hid h1; have Z1 := Lib.hid z1; have G1 := Lib.hid g1; clear h1 z1 g1)) | ((with_reducible show wpList _ _ _ (⟨some 3, .box 23 (.tmp 1), _, _, _, _⟩ :: _) _ _); go_must (refine wpList_box_row rfl 23 (.tmp 1) rfl (bcs (enc b)).toArray rfl ?_; intro w2 h1 z1 g1; have H2 := Lib.hid h1; have Z2 := Lib.hid z1; have G2 := Lib.hid g1; clear h1 z1 g1)) | ((with_reducible show wpList _ _ _ (⟨some 4, .alloc 23, _, _, _, _⟩ :: _) _ _); go_must (refine wpList_alloc_row rfl 23 rfl (.agg (zbs 32)) zero23 ?_; intro w3 h1 z1 g1; have H3 := Lib.hid h1; have Z3 := Lib.hid z1; have G3 := Lib.hid g1; clear h1 z1 g1)))
  have R : Hid (NAt w3 w.heap.size a) := (NAt.grown ⟨23, H1.out⟩ G2.out (by simp)).grown G3.out (by simp)
  have Q : Hid (NAt w3 (w.heap.size + 1) b) := by
    have h := H2.out
    rw [Z1.out] at h
    exact NAt.grown ⟨23, h⟩ G3.out (by simp)
  have HB : Hid (Below w.heap.size w w3) := (below_of_grownBy G1.out).trans (((below_of_grownBy G2.out).mono (by have := Z1.out; omega)).trans ((below_of_grownBy G3.out).mono (by have := Z1.out; have := Z2.out; omega)))
  have Z : Hid (ZAt w3 (w.heap.size + 2)) := by
    have h := H3.out
    rw [Z2.out, Z1.out] at h
    exact h
  rw [show w2.heap.size = w.heap.size + 2 from by rw [Z2.out, Z1.out], show w1.heap.size = w.heap.size + 1 from Z1.out]
  have HLTwheapsize : Hid (w.heap.size < w3.heap.size) := R.out.lt
  have HLTwheapsizep1 : Hid (w.heap.size + 1 < w3.heap.size) := Q.out.lt
  have HLTwheapsizep2 : Hid (w.heap.size + 2 < w3.heap.size) := Z.out.lt
  clear H1 Z1 G1 H2 Z2 G2 H3 Z3 G3
  refine region_split (fun a' W => ∃ z, NAt W (w.heap.size + 2) n ∧ Below w.heap.size w W ∧ a' = ⟨#[vN a, vN b, .pointer (some ⟨w.heap.size, 0, none⟩), .pointer (some ⟨w.heap.size + 1, 0, none⟩), .pointer (some ⟨w.heap.size + 2, 0, none⟩), vN a, .agg (ics x).toArray, vN b, .agg (ics z).toArray, vN n], []⟩) ?_ ?_
  · refine startW (fun j => j == 5) (w3.heap.size) (by kernel_rfl) ?_
    obtain ⟨D19, hD19⟩ : ∃ D, D = w3.drew := ⟨_, rfl⟩
    rw [← hD19]
    have HLD19 : Hid (w3.heap.size ≤ D19.heap.size) := Lib.hid (by rw [hD19]; exact Nat.le_refl _)
    have HBD19 : Hid (Below w.heap.size w D19) := Lib.hid (by rw [hD19]; exact below_drewN' HB.out 1)
    have R0D19 : Hid (NAt D19 (w.heap.size) a) := Lib.hid (by rw [hD19]; exact R.out)
    have R1D19 : Hid (NAt D19 (w.heap.size + 1) b) := Lib.hid (by rw [hD19]; exact Q.out)
    have Z0D19 : Hid (ZAt D19 (w.heap.size + 2)) := Lib.hid (by rw [hD19]; exact Z.out)
    clear hD19
    refine takeT (i := 0) (oi := { dst := some 5, op := Op.load 23 (Operand.tmp 2), type := 23, pos := "ref.go:154", after := #[], guard := none }) (vN a) rfl (by kernel_rfl) (by kernel_rfl) (by kernel_rfl) (by kernel_rfl) (by kernel_rfl) (fun _ _ _ h => nomatch h.1) (by rfl) (fun w' hk => exec_load23 (.tmp 2) rfl (w.heap.size) a rfl (R0D19.out.below hk HLTwheapsize.out)) ?_
    simp only [Act.put, List.setIfInBounds_toArray, List.set_cons_zero, List.set_cons_succ]
    refine takeT (i := 2) (oi := { dst := some 7, op := Op.load 23 (Operand.tmp 3), type := 23, pos := "ref.go:154", after := #[], guard := none }) (vN b) rfl (by kernel_rfl) (by kernel_rfl) (by kernel_rfl) (by kernel_rfl) (by kernel_rfl) (fun _ _ _ h => nomatch h.1) (by rfl) (fun w' hk => exec_load23 (.tmp 3) rfl (w.heap.size + 1) b rfl (R1D19.out.below hk HLTwheapsizep1.out)) ?_
    simp only [Act.put, List.setIfInBounds_toArray, List.set_cons_zero, List.set_cons_succ]
    refine callW (i := 1) (oi := { dst := some 6, op := Op.call { callee := Callee.value (Operand.func 68), args := #[Operand.tmp 5], argTypes := #[23] }, type := 65, pos := "ref.go:154", after := #[{ on := 0, ground := Ground.data }], guard := none }) rfl (by kernel_rfl) (by rfl) (exec_callL 68 [.tmp 5] #[23] rfl [vN a] rfl (CG68 _)) ((HA.out D19).mono ?_)
    rintro eW20 W20 ⟨rfl, hbW20⟩
    refine ⟨_, rfl, fun _ => hbW20.mono HLD19.out, ?_⟩
    have HBW20 : Hid (Below w.heap.size w W20) := Lib.hid (HBD19.out.trans (hbW20.mono HBD19.out.size))
    have HLW20 : Hid (w3.heap.size ≤ W20.heap.size) := Lib.hid (Nat.le_trans HLD19.out hbW20.size)
    have R0D19_W20 := Lib.hid (R0D19.out.keep hbW20)
    have R1D19_W20 := Lib.hid (R1D19.out.keep hbW20)
    have Z0D19_W20 := Lib.hid (Z0D19.out.keep hbW20)
    clear hbW20 HBD19 HLD19 R0D19 R1D19 Z0D19
    simp only [Act.put, List.setIfInBounds_toArray, List.set_cons_zero, List.set_cons_succ]
    refine callW (i := 3) (oi := { dst := some 8, op := Op.call { callee := Callee.value (Operand.func 77), args := #[Operand.tmp 6, Operand.tmp 7], argTypes := #[65, 23] }, type := 65, pos := "ref.go:154", after := #[{ on := 1, ground := Ground.data }, { on := 2, ground := Ground.data }, { on := 1, ground := Ground.chain }], guard := none }) rfl (by kernel_rfl) (by rfl) (exec_callL 77 [.tmp 6, .tmp 7] #[65, 23] rfl [.agg (ics x).toArray, vN b] rfl (CG77 _)) ((HP.out W20).mono ?_)
    rintro eW21 W21 ⟨z, hzG, rfl, hbW21⟩
    refine ⟨_, rfl, fun _ => hbW21.mono HLW20.out, ?_⟩
    have HBW21 : Hid (Below w.heap.size w W21) := Lib.hid (HBW20.out.trans (hbW21.mono HBW20.out.size))
    have HLW21 : Hid (w3.heap.size ≤ W21.heap.size) := Lib.hid (Nat.le_trans HLW20.out hbW21.size)
    have R0D19_W21 := Lib.hid (R0D19_W20.out.keep hbW21)
    have R1D19_W21 := Lib.hid (R1D19_W20.out.keep hbW21)
    have Z0D19_W21 := Lib.hid (Z0D19_W20.out.keep hbW21)
    clear hbW21 HBW20 HLW20 R0D19_W20 R1D19_W20 Z0D19_W20
    simp only [Act.put, List.setIfInBounds_toArray, List.set_cons_zero, List.set_cons_succ]
    refine callW (i := 4) (oi := { dst := some 9, op := Op.call { callee := Callee.value (Operand.func 67), args := #[Operand.tmp 8], argTypes := #[65] }, type := 23, pos := "ref.go:154", after := #[{ on := 3, ground := Ground.data }, { on := 3, ground := Ground.chain }], guard := none }) rfl (by kernel_rfl) (by rfl) (exec_callL 67 [.tmp 8] #[65] rfl [.agg (ics z).toArray] rfl (CG67 _)) ((HC.out z hzG W21).mono ?_)
    rintro eW22 W22 ⟨rfl, hbW22⟩
    refine ⟨_, rfl, fun _ => hbW22.mono HLW21.out, ?_⟩
    have HBW22 : Hid (Below w.heap.size w W22) := Lib.hid (HBW21.out.trans (hbW22.mono HBW21.out.size))
    have HLW22 : Hid (w3.heap.size ≤ W22.heap.size) := Lib.hid (Nat.le_trans HLW21.out hbW22.size)
    have R0D19_W22 := Lib.hid (R0D19_W21.out.keep hbW22)
    have R1D19_W22 := Lib.hid (R1D19_W21.out.keep hbW22)
    have Z0D19_W22 := Lib.hid (Z0D19_W21.out.keep hbW22)
    clear hbW22 HBW21 HLW21 R0D19_W21 R1D19_W21 Z0D19_W21
    simp only [Act.put, List.setIfInBounds_toArray, List.set_cons_zero, List.set_cons_succ]
    refine storeW_all (i := 5) (oi := { dst := none, op := Op.store 23 (Operand.tmp 4) (Operand.tmp 9), type := 0, pos := "ref.go:154", after := #[{ on := 4, ground := Ground.data }, { on := 4, ground := Ground.chain }, { on := 0, ground := Ground.phase }, { on := 1, ground := Ground.phase }, { on := 2, ground := Ground.phase }, { on := 3, ground := Ground.phase }, { on := 4, ground := Ground.phase }], guard := none }) rfl (by kernel_rfl) (by rfl) 23 (.tmp 4) (.tmp 9) rfl (w.heap.size + 2) rfl (bcs (enc n)).toArray rfl 23 _ Z0D19_W22.out (by rw [List.size_toArray, bcs_enc_len]; exact size23) (by rw [List.size_toArray, bcs_enc_len]; rfl) (bcs_one _) rfl ?_
    intro W23 hhW23 hgW23 hzW23
    simp only [Act.put, List.setIfInBounds_toArray, List.set_cons_zero, List.set_cons_succ]
    have R0D19_W23 := Lib.hid (R0D19_W22.out.grown hgW23 (by simp))
    have R1D19_W23 := Lib.hid (R1D19_W22.out.grown hgW23 (by simp))
    have Swheapsizep2_W23 : Hid (NAt W23 (w.heap.size + 2) n) := Lib.hid ⟨23, hhW23⟩
    have HBW23 : Hid (Below w.heap.size w W23) := Lib.hid (HBW22.out.grown hgW23 HBW22.out.size (fun r hr => by injection hr with hr; omega))
    have HLW23 : Hid (w3.heap.size ≤ W23.heap.size) := Lib.hid (Nat.le_trans HLW22.out hgW23.size)
    clear hhW23 hgW23 hzW23 HBW22 HLW22 R0D19_W22 R1D19_W22 Z0D19_W22
    refine doneW (by kernel_rfl) ⟨rfl, ?_⟩ _
    exact ⟨_, Swheapsizep2_W23.out, HBW23.out, rfl⟩
  rintro a' W ⟨z, ⟨t, ht⟩, hb, rfl⟩
  have HH := Lib.hid ht
  have HBel := Lib.hid hb
  clear ht hb R Q HB Z HLTwheapsize HLTwheapsizep1 HLTwheapsizep2 HA HP HC
  go_wp2
  refine bodyPost_ret (results_cell_row rfl _ _ (w.heap.size + 2) t (bcs (enc n)).toArray _ _ rfl HH.out under23 rfl (by rw [List.size_toArray, bcs_enc_len]; exact size23)) rfl ?_
  exact ⟨rfl, HBel.out⟩

set_option maxHeartbeats 1000000 in
theorem rInv_core (a e n : Nat) (w : World)
    (HO : Hid (∀ w, Calls Try.prog 64 #[.int .i64 2, .int .i64 0] w (Gives (vN e) w))) (HP : Hid (∀ w, Calls Try.prog 28 #[vN a, vN e] w (Gives (vN n) w))) :
    Calls Try.prog 30 #[vN a] w (Gives (vN n) w) := by
  go_enter Try.func30, Try.ntmps30
  go_wp2_with (first | ((with_reducible show wpList _ _ _ (⟨some 1, .box 23 (.tmp 0), _, _, _, _⟩ :: _) _ _); go_must (refine wpList_box_row rfl 23 (.tmp 0) rfl (bcs (enc a)).toArray rfl ?_; intro w1 h1 z1 g1; have H1 := Lib.hid h1; have Z1 := Lib.hid z1; have G1 := Lib.hid g1; clear h1 z1 g1)) | ((with_reducible show wpList _ _ _ (⟨some 2, .alloc 23, _, _, _, _⟩ :: _) _ _); go_must (refine wpList_alloc_row rfl 23 rfl (.agg (zbs 32)) zero23 ?_; intro w2 h1 z1 g1; have H2 := Lib.hid h1; have Z2 := Lib.hid z1; have G2 := Lib.hid g1; clear h1 z1 g1)))
  have R : Hid (NAt w2 w.heap.size a) := NAt.grown ⟨23, H1.out⟩ G2.out (by simp)
  have HB : Hid (Below w.heap.size w w2) := (below_of_grownBy G1.out).trans ((below_of_grownBy G2.out).mono (by have := Z1.out; omega))
  have Z : Hid (ZAt w2 (w.heap.size + 1)) := by
    have h := H2.out
    rw [Z1.out] at h
    exact h
  rw [show w1.heap.size = w.heap.size + 1 from Z1.out]
  have HLTwheapsize : Hid (w.heap.size < w2.heap.size) := R.out.lt
  have HLTwheapsizep1 : Hid (w.heap.size + 1 < w2.heap.size) := Z.out.lt
  clear H1 Z1 G1 H2 Z2 G2
  refine region_split (fun a' W => NAt W (w.heap.size + 1) n ∧ Below w.heap.size w W ∧ a' = ⟨#[vN a, .pointer (some ⟨w.heap.size, 0, none⟩), .pointer (some ⟨w.heap.size + 1, 0, none⟩), vN a, vN e, vN n], []⟩) ?_ ?_
  · refine startW (fun j => j == 3) (w2.heap.size) (by kernel_rfl) ?_
    obtain ⟨D24, hD24⟩ : ∃ D, D = w2.drew := ⟨_, rfl⟩
    rw [← hD24]
    have HLD24 : Hid (w2.heap.size ≤ D24.heap.size) := Lib.hid (by rw [hD24]; exact Nat.le_refl _)
    have HBD24 : Hid (Below w.heap.size w D24) := Lib.hid (by rw [hD24]; exact below_drewN' HB.out 1)
    have R0D24 : Hid (NAt D24 (w.heap.size) a) := Lib.hid (by rw [hD24]; exact R.out)
    have Z0D24 : Hid (ZAt D24 (w.heap.size + 1)) := Lib.hid (by rw [hD24]; exact Z.out)
    clear hD24
    refine takeT (i := 0) (oi := { dst := some 3, op := Op.load 23 (Operand.tmp 1), type := 23, pos := "ref.go:175", after := #[], guard := none }) (vN a) rfl (by kernel_rfl) (by kernel_rfl) (by kernel_rfl) (by kernel_rfl) (by kernel_rfl) (fun _ _ _ h => nomatch h.1) (by rfl) (fun w' hk => exec_load23 (.tmp 1) rfl (w.heap.size) a rfl (R0D24.out.below hk HLTwheapsize.out)) ?_
    simp only [Act.put, List.setIfInBounds_toArray, List.set_cons_zero, List.set_cons_succ]
    refine callW (i := 1) (oi := { dst := some 4, op := Op.call { callee := Callee.value (Operand.func 64), args := #[Operand.const (Value.int IntKind.i64 2), Operand.const (Value.int IntKind.i64 0)], argTypes := #[3, 3] }, type := 23, pos := "ref.go:175", after := #[], guard := none }) rfl (by kernel_rfl) (by rfl) (exec_callL 64 [.const (.int .i64 2), .const (.int .i64 0)] #[3, 3] rfl [.int .i64 2, .int .i64 0] rfl (CG64 _)) ((HO.out D24).mono ?_)
    rintro eW25 W25 ⟨rfl, hbW25⟩
    refine ⟨_, rfl, fun _ => hbW25.mono HLD24.out, ?_⟩
    have HBW25 : Hid (Below w.heap.size w W25) := Lib.hid (HBD24.out.trans (hbW25.mono HBD24.out.size))
    have HLW25 : Hid (w2.heap.size ≤ W25.heap.size) := Lib.hid (Nat.le_trans HLD24.out hbW25.size)
    have R0D24_W25 := Lib.hid (R0D24.out.keep hbW25)
    have Z0D24_W25 := Lib.hid (Z0D24.out.keep hbW25)
    clear hbW25 HBD24 HLD24 R0D24 Z0D24
    simp only [Act.put, List.setIfInBounds_toArray, List.set_cons_zero, List.set_cons_succ]
    refine callW (i := 2) (oi := { dst := some 5, op := Op.call { callee := Callee.value (Operand.func 28), args := #[Operand.tmp 3, Operand.tmp 4], argTypes := #[23, 23] }, type := 23, pos := "ref.go:175", after := #[{ on := 0, ground := Ground.data }, { on := 1, ground := Ground.data }, { on := 1, ground := Ground.chain }], guard := none }) rfl (by kernel_rfl) (by rfl) (exec_callL 28 [.tmp 3, .tmp 4] #[23, 23] rfl [vN a, vN e] rfl (CG28 _)) ((HP.out W25).mono ?_)
    rintro eW26 W26 ⟨rfl, hbW26⟩
    refine ⟨_, rfl, fun _ => hbW26.mono HLW25.out, ?_⟩
    have HBW26 : Hid (Below w.heap.size w W26) := Lib.hid (HBW25.out.trans (hbW26.mono HBW25.out.size))
    have HLW26 : Hid (w2.heap.size ≤ W26.heap.size) := Lib.hid (Nat.le_trans HLW25.out hbW26.size)
    have R0D24_W26 := Lib.hid (R0D24_W25.out.keep hbW26)
    have Z0D24_W26 := Lib.hid (Z0D24_W25.out.keep hbW26)
    clear hbW26 HBW25 HLW25 R0D24_W25 Z0D24_W25
    simp only [Act.put, List.setIfInBounds_toArray, List.set_cons_zero, List.set_cons_succ]
    refine storeW_all (i := 3) (oi := { dst := none, op := Op.store 23 (Operand.tmp 2) (Operand.tmp 5), type := 0, pos := "ref.go:175", after := #[{ on := 2, ground := Ground.data }, { on := 2, ground := Ground.chain }, { on := 0, ground := Ground.phase }, { on := 1, ground := Ground.phase }, { on := 2, ground := Ground.phase }], guard := none }) rfl (by kernel_rfl) (by rfl) 23 (.tmp 2) (.tmp 5) rfl (w.heap.size + 1) rfl (bcs (enc n)).toArray rfl 23 _ Z0D24_W26.out (by rw [List.size_toArray, bcs_enc_len]; exact size23) (by rw [List.size_toArray, bcs_enc_len]; rfl) (bcs_one _) rfl ?_
    intro W27 hhW27 hgW27 hzW27
    simp only [Act.put, List.setIfInBounds_toArray, List.set_cons_zero, List.set_cons_succ]
    have R0D24_W27 := Lib.hid (R0D24_W26.out.grown hgW27 (by simp))
    have Swheapsizep1_W27 : Hid (NAt W27 (w.heap.size + 1) n) := Lib.hid ⟨23, hhW27⟩
    have HBW27 : Hid (Below w.heap.size w W27) := Lib.hid (HBW26.out.grown hgW27 HBW26.out.size (fun r hr => by injection hr with hr; omega))
    have HLW27 : Hid (w2.heap.size ≤ W27.heap.size) := Lib.hid (Nat.le_trans HLW26.out hgW27.size)
    clear hhW27 hgW27 hzW27 HBW26 HLW26 R0D24_W26 Z0D24_W26
    refine doneW (by kernel_rfl) ⟨rfl, ?_⟩ _
    exact ⟨Swheapsizep1_W27.out, HBW27.out, rfl⟩
  rintro a' W ⟨⟨t, ht⟩, hb, rfl⟩
  have HH := Lib.hid ht
  have HBel := Lib.hid hb
  clear ht hb R HB Z HLTwheapsize HLTwheapsizep1 HO HP
  go_wp2
  refine bodyPost_ret (results_cell_row rfl _ _ (w.heap.size + 1) t (bcs (enc n)).toArray _ _ rfl HH.out under23 rfl (by rw [List.size_toArray, bcs_enc_len]; exact size23)) rfl ?_
  exact ⟨rfl, HBel.out⟩

set_option maxHeartbeats 400000 in
theorem rSame_core (a b r s : Nat) (c : Bool) (w : World) (H1 : Hid (∀ w, Calls Try.prog 14 #[vN a] w (Gives (vN r) w))) (H2 : Hid (∀ w, Calls Try.prog 14 #[vN b] w (Gives (vN s) w))) (HE : Hid (∀ w, (Op.equalIn 10000 23 (vN r) (vN s)).run Try.prog w = .ok c w)) :
    Calls Try.prog 34 #[vN a, vN b] w (Gives (.bool c) w) := by
  go_enter Try.func34, Try.ntmps34
  go_wp2_with (first | ((with_reducible show wpList _ _ _ (⟨some 2, .box 23 (.tmp 0), _, _, _, _⟩ :: _) _ _); go_must (refine wpList_box_row rfl 23 (.tmp 0) rfl (bcs (enc a)).toArray rfl ?_; intro w3 h1 z1 g1; have H3 := Lib.hid h1; have Z3 := Lib.hid z1; have G3 := Lib.hid g1; clear h1 z1 g1)) | ((with_reducible show wpList _ _ _ (⟨some 3, .box 23 (.tmp 1), _, _, _, _⟩ :: _) _ _); go_must (refine wpList_box_row rfl 23 (.tmp 1) rfl (bcs (enc b)).toArray rfl ?_; intro w4 h1 z1 g1; have H4 := Lib.hid h1; have Z4 := Lib.hid z1; have G4 := Lib.hid g1; clear h1 z1 g1)))
  have R : Hid (NAt w4 w.heap.size a) := NAt.grown ⟨23, H3.out⟩ G4.out (by simp)
  have S : Hid (NAt w4 (w.heap.size + 1) b) := by
    have h := H4.out
    rw [Z3.out] at h
    exact ⟨23, h⟩
  have HB : Hid (Below w.heap.size w w4) := (below_of_grownBy G3.out).trans ((below_of_grownBy G4.out).mono (by have := Z3.out; omega))
  rw [show w3.heap.size = w.heap.size + 1 from Z3.out]
  clear H3 Z3 G3 H4 Z4 G4
  refine region_wq (by kernel_rfl) (by kernel_rfl) ?_
  refine wq_load rfl (.tmp 2) rfl (w.heap.size) a rfl R.out ?_
  simp only [Act.put, List.setIfInBounds_toArray, List.set_cons_zero, List.set_cons_succ]
  refine wq_call rfl 14 [.tmp 5] #[23] rfl [vN a] rfl (CG14 _) (vN r) H1.out ?_
  simp only [Act.put, List.setIfInBounds_toArray, List.set_cons_zero, List.set_cons_succ]
  refine wq_load rfl (.tmp 3) rfl (w.heap.size + 1) b rfl S.out ?_
  simp only [Act.put, List.setIfInBounds_toArray, List.set_cons_zero, List.set_cons_succ]
  refine wq_call rfl 14 [.tmp 7] #[23] rfl [vN b] rfl (CG14 _) (vN s) H2.out ?_
  simp only [Act.put, List.setIfInBounds_toArray, List.set_cons_zero, List.set_cons_succ]
  refine wq_eq rfl (.tmp 6) (.tmp 8) rfl r s rfl rfl c HE.out ?_
  simp only [Act.put, List.setIfInBounds_toArray, List.set_cons_zero, List.set_cons_succ]
  refine wq_assign rfl (.tmp 9) rfl (.bool c) rfl ?_
  simp only [Act.put, List.setIfInBounds_toArray, List.set_cons_zero, List.set_cons_succ]
  refine wq_nil ?_
  intro w2 hb
  have HB2 : Hid (Below w.heap.size w w2) := HB.out.trans (hb.mono HB.out.size)
  clear hb HB
  go_wp2
  go_ret
  exact ⟨rfl, HB2.out⟩

set_option maxHeartbeats 400000 in
theorem rNeg_core (a r : Nat) (w : World) (H25 : Hid (∀ w, Calls Try.prog 22 #[vN 0, vN a] w (Gives (vN r) w))) :
    Calls Try.prog 24 #[vN a] w (Gives (vN r) w) := by
  go_enter Try.func24, Try.ntmps24
  go_wp2_with (first | ((with_reducible show wpList _ _ _ (⟨some 1, .box 23 (.tmp 0), _, _, _, _⟩ :: _) _ _); go_must (refine wpList_box_row rfl 23 (.tmp 0) rfl (bcs (enc a)).toArray rfl ?_; intro w1 h1 z1 g1; have H1 := Lib.hid h1; have Z1 := Lib.hid z1; have G1 := Lib.hid g1; clear h1 z1 g1)) | ((with_reducible show wpList _ _ _ (⟨some 2, .alloc 23, _, _, _, _⟩ :: _) _ _); go_must (refine wpList_alloc_row rfl 23 rfl (.agg (zbs 32)) zero23 ?_; intro w2 h1 z1 g1; have H2 := Lib.hid h1; have Z2 := Lib.hid z1; have G2 := Lib.hid g1; clear h1 z1 g1; have R : Hid (NAt w2 w.heap.size a) := NAt.grown ⟨23, H1.out⟩ G2.out (by simp))) | ((with_reducible show wpList _ _ _ (⟨_, .build 23 _, _, _, _, _⟩ :: _) _ _); go_must (refine wpList_exec rfl (vN 0) (exec_build0 rfl) ?_)) | ((with_reducible show wpList _ _ _ (⟨_, .load 23 (.tmp 1), _, _, _, _⟩ :: _) _ _); go_must (refine wpList_exec rfl (vN a) (exec_load23 (.tmp 1) rfl (w.heap.size) a rfl R.out) ?_)))
  have HB : Hid (Below w.heap.size w w2) := (below_of_grownBy G1.out).trans ((below_of_grownBy G2.out).mono (by have := Z1.out; omega))
  have HR2 : Hid (w2.heap[w.heap.size + 1]? = some (.cells (zbs 32) 23 (0, 0))) := by
    have h := H2.out
    rw [Z1.out] at h
    exact h
  rw [show w1.heap.size = w.heap.size + 1 from Z1.out]
  clear H1 Z1 G1 H2 Z2 G2 R
  refine (H25.out _).mono ?_
  rintro e x4 ⟨rfl, hb⟩
  have HRow : Hid (x4.heap[w.heap.size + 1]? = some (.cells (zbs 32) 23 (0, 0))) := (hb.block _ (Array.getElem?_eq_some_iff.1 HR2.out).1).trans HR2.out
  have HBel : Hid (Below w.heap.size w x4) := HB.out.trans (hb.mono HB.out.size)
  clear hb HB HR2 H25
  go_wp2_with ((with_reducible show wpList _ _ _ (⟨none, .store 23 (.tmp 2) (.tmp 5), _, _, _, _⟩ :: _) _ _); go_must (refine wpList_store_all rfl 23 (.tmp 2) (.tmp 5) rfl (w.heap.size + 1) rfl (bcs (enc r)).toArray rfl 23 _ HRow.out (by rw [List.size_toArray, bcs_enc_len]; exact size23) (by rw [List.size_toArray, bcs_enc_len]; rfl) (bcs_one _) ?_; intro x5 hh hg hz; have HH := Lib.hid hh; have HG := Lib.hid hg; clear hh hg hz))
  refine bodyPost_ret (results_cell_row rfl _ _ (w.heap.size + 1) 23 (bcs (enc r)).toArray _ _ rfl HH.out under23 rfl (by rw [List.size_toArray, bcs_enc_len]; exact size23)) rfl ?_
  exact ⟨rfl, HBel.out.grown HG.out HBel.out.size (fun r hr => by injection hr; omega)⟩

set_option maxHeartbeats 400000 in
theorem rOdd_core (a r : Nat) (b : Bool) (w : World) (H11 : Hid (∀ w, Calls Try.prog 14 #[vN a] w (Gives (vN r) w))) (HI : Hid (∀ w, (Instr.index 23 (vN r) (.int .i64 0)).run Try.prog w = .ok (.int .u8 ((r % 256 : Nat) : Int)) w))
    (HE : Hid (((((r % 256 : Nat) : Int)).tmod 2 == 1) = b)) :
    Calls Try.prog 32 #[vN a] w (Gives (.bool b) w) := by
  have hlt : r % 256 < 256 := Nat.mod_lt _ (by omega)
  generalize r % 256 = x at *
  go_enter Try.func32, Try.ntmps32
  go_wp2_with (first | ((with_reducible show wpList _ _ _ (⟨some 1, .box 23 (.tmp 0), _, _, _, _⟩ :: _) _ _); go_must (refine wpList_box_row rfl 23 (.tmp 0) rfl (bcs (enc a)).toArray rfl ?_; intro w1 h1 z1 g1; have H1 := Lib.hid h1; have Z1 := Lib.hid z1; have G1 := Lib.hid g1; clear h1 z1 g1; have R : Hid (NAt w1 w.heap.size a) := ⟨23, H1.out⟩)) | ((with_reducible show wpList _ _ _ (⟨_, .load 23 (.tmp 1), _, _, _, _⟩ :: _) _ _); go_must (refine wpList_exec rfl (vN a) (exec_load23 (.tmp 1) rfl (w.heap.size) a rfl R.out) ?_)))
  have HB : Hid (Below w.heap.size w w1) := below_of_grownBy G1.out
  clear H1 Z1 G1 R
  refine (H11.out _).mono ?_
  rintro e x4 ⟨rfl, hb⟩
  have HBel : Hid (Below w.heap.size w x4) := HB.out.trans (hb.mono HB.out.size)
  clear hb HB H11
  go_wp2_with ((with_reducible show wpList _ _ _ (⟨_, .index 23 (.tmp 4) _, _, _, _, _⟩ :: _) _ _); go_must (refine wpList_exec rfl (.int .u8 (x : Int)) (exec_index0 _ _ rfl rfl (HI.out _)) ?_))
  go_ret
  refine ⟨?_, HBel.out⟩
  exact congrArg (fun x => Ending.returned (.bool x)) HE.out
end Go.Proofs.Ytgdimnbdnepbgaa
/- The reference's shifted. No statement is proved here. -/
namespace Go.Proofs.Ytgdimnbdnepbgaa
open Go.RowKit
set_option linter.unusedVariables false
set_option maxRecDepth 40000
set_option linter.unusedSimpArgs false

theorem half_step (v i : Nat) : v / 2 / 256 ^ i % 256 = v / 256 ^ i % 256 / 2 + 128 * (v / 256 ^ (i + 1) % 256 % 2) := by
  rw [Nat.pow_succ, ← Nat.div_div_eq_div_mul, Nat.div_div_eq_div_mul, Nat.mul_comm, ← Nat.div_div_eq_div_mul]
  omega
theorem half_last (v : Nat) (hv : v < TT) : v / 2 / 256 ^ 31 % 256 = v / 256 ^ 31 % 256 / 2 := by
  unfold TT at hv
  rw [Nat.div_div_eq_div_mul, Nat.mul_comm, ← Nat.div_div_eq_div_mul]
  have : v / 256 ^ 31 < 256 := by omega
  omega
/-- The bytes below i are halved. -/
def Mix (v i : Nat) (l : List UInt8) : Prop := ∀ j, j < 32 → (l.getD j 0).toNat = (if j < i then v / 2 else v) / 256 ^ j % 256
theorem Mix.next {v i : Nat} {l : List UInt8} (h : Mix v i l) (hl : l.length = 32) (hi : i < 32) (c : Nat) (hc : c % 256 = v / 2 / 256 ^ i % 256) : Mix v (i + 1) (l.set i (UInt8.ofNat c)) := by
  intro j hj
  by_cases e : i = j
  · subst e
    rw [getD_set_eq8 _ _ _ (by omega), of_byte, if_pos (by omega), hc]
  · rw [getD_set_ne8 _ _ _ _ e, h j hj]
    by_cases e2 : j < i
    · rw [if_pos e2, if_pos (by omega)]
    · rw [if_neg e2, if_neg (by omega)]

set_option maxHeartbeats 2000000 in
theorem shifted_core (n k : Nat) (V : Nat) (hn : n < 200) (hk : k < 10) (HV : Hid (UInt8.ofNat (237 - n) :: (List.replicate 30 255 ++ [127]) = enc V)) (HT : Hid (V < TT)) (w : World) :
    Calls Try.prog 64 #[.int .i64 n, .int .i64 k] w (Gives (vN (V / 2 ^ k)) w) := by
  have hni : (n : Int) < 200 := by omega
  have hki : (k : Int) < 10 := by omega
  go_enter Try.func64, Try.ntmps64
  go_wp2_with (first | ((with_reducible show wpList _ _ _ (⟨some 4, .alloc 23, _, _, _, _⟩ :: _) _ _); go_must (refine wpList_alloc_row rfl 23 rfl (.agg (zbs 32)) zero23 ?_; intro w1 h1 z1 g1; have H1 := Lib.hid h1; have Z1 := Lib.hid z1; have G1 := Lib.hid g1; clear h1 z1 g1)) | ((with_reducible show wpList _ _ _ (⟨some 5, .alloc 23, _, _, _, _⟩ :: _) _ _); go_must (refine wpList_alloc_row rfl 23 rfl (.agg (zbs 32)) zero23 ?_; intro w2 h1 z1 g1; have H2 := Lib.hid h1; have G2 := Lib.hid g1; clear h1 z1 g1)))
  have S : Hid (Sz w (List.replicate 32 0) w2) := Sz.start H1.out Z1.out G1.out H2.out G2.out
  rw [show w1.heap.size = w.heap.size + 1 from Z1.out]
  clear H1 Z1 G1 H2 G2
  go_loopw [6] (fun i wr => ∃ m : Nat, ∃ l : List UInt8, m ≤ 32 ∧ i = .int .i64 m ∧ (∀ j, j < m → l.getD j 0 = 255) ∧ Sz w l wr) (fun i _ => 32 - (intOf i).toNat)
  case atStart => exact ⟨0, _, by omega, rfl, fun j hj => absurd hj (by omega), S.out⟩
  case round =>
    obtain ⟨m, l, hm, rfl, hv, hp⟩ := hrel
    have H := Lib.hid hp
    have HVL := Lib.hid hv
    clear hp S hv
    have HBL : Hid (l.length = 32) := H.out.b.1
    obtain ⟨t, ht⟩ := H.out.b.2
    have HTT := Lib.hid ht
    clear ht
    by_cases hlt : m < 32
    · have hmi : (m : Int) < 32 := by omega
      go_wp2_with (first | ((with_reducible show wpList _ _ _ (⟨none, .store 5 (.tmp 13) _, _, _, _, _⟩ :: _) _ _); go_must (refine wpList_store_one rfl 5 (.tmp 13) (.const (.int .u8 255)) rfl (w.heap.size + 1) m rfl .u8 _ rfl t _ HTT.out size5 (by simp only [List.size_toArray, bcs_len]; have := HBL.out; omega) ?_; intro x5 hh hg hz; have HH := Lib.hid hh; have HG := Lib.hid hg; clear hh hg hz)) | fail)
      have hh := HH.out
      rw [show Value.int IntKind.u8 255 = bc 255 from rfl, bcs_put] at hh
      refine ⟨⟨m + 1, _, by omega, by go_num, fun j hj => ?_, H.out.set HG.out (by rw [List.length_set]; exact HBL.out) hh⟩, by simp [intOf]; omega⟩
      by_cases e : m = j
      · subst e
        exact getD_set_eq8 _ _ _ (by have := HBL.out; omega)
      · rw [getD_set_ne8 _ _ _ _ e]
        exact HVL.out j (by omega)
    · obtain rfl : m = 32 := by omega
      have hsub : IntKind.u8.wrap (237 - (n : Int)) = ((237 - n : Nat) : Int) := by
        show (237 - (n : Int)) % 256 = _
        omega
      go_wp2_with (first | ((with_reducible show wpList _ _ _ (⟨none, .store 5 (.tmp 17) (.tmp 16), _, _, _, _⟩ :: _) _ _); go_must (refine wpList_store_one rfl 5 (.tmp 17) (.tmp 16) rfl (w.heap.size + 1) 0 rfl .u8 _ rfl t _ HTT.out size5 (by simp only [List.size_toArray, bcs_len]; have := HBL.out; omega) ?_; intro x5 hh hg hz; have HH := Lib.hid hh; have HG := Lib.hid hg; clear hh hg hz)) | ((with_reducible show wpList _ _ _ (⟨none, .store 5 (.tmp 18) _, _, _, _, _⟩ :: _) _ _); go_must (refine wpList_store_one rfl 5 (.tmp 18) (.const (.int .u8 127)) rfl (w.heap.size + 1) 31 rfl .u8 _ rfl t _ HH.out size5 (by simp only [List.size_toArray, bcs_len, Array.size_setIfInBounds]; have := HBL.out; omega) ?_; intro x6 hh hg hz; have HH2 := Lib.hid hh; have HG2 := Lib.hid hg; clear hh hg hz)) | fail)
      have S2 : Hid (Sz w (enc V) x6) := by
        have hh := HH2.out
        have e : Value.int IntKind.u8 ((237 - n : Nat) : Int) = bc (UInt8.ofNat (237 - n)) := by unfold bc; rw [of_byte, Nat.mod_eq_of_lt (by omega)]
        rw [show Value.int IntKind.u8 127 = bc 127 from rfl, e, bcs_put, bcs_put] at hh
        have hl : l = List.replicate 32 255 := by
          apply List.ext_getElem
          · rw [HBL.out]; rfl
          · intro i h1 h2
            have h := HVL.out i (by have := HBL.out; omega)
            rw [List.getD_eq_getElem?_getD, List.getElem?_eq_getElem h1] at h
            rw [List.getElem_replicate]
            exact h
        have e2 : (l.set 0 (UInt8.ofNat (237 - n))).set 31 127 = enc V := by rw [← HV.out, hl]; rfl
        have q := (H.out.set HG.out (l' := l.set 0 (UInt8.ofNat (237 - n))) (t := t) (by rw [List.length_set]; exact HBL.out) (by have h := HH.out; rw [e, bcs_put] at h; exact h)).set HG2.out (by rw [List.length_set, List.length_set]; exact HBL.out) hh
        rw [e2] at q
        exact q
      clear HH HG HH2 HG2 H HVL HTT HBL hsub
      simp only [Act.put]
      go_loopw [1, 7] (fun kk _ wr => ∃ r : Nat, r ≤ k ∧ kk = .int .i64 r ∧ Sz w (enc (V / 2 ^ (k - r))) wr) (fun kk _ _ => (intOf kk).toNat)
      case atStart => exact ⟨k, by omega, rfl, by rw [Nat.sub_self, Nat.pow_zero, Nat.div_one]; exact S2.out⟩
      case round =>
        obtain ⟨r, hr, rfl, hp⟩ := hrel
        have H := Lib.hid hp
        clear hp S2
        have HVT : Hid (V / 2 ^ (k - r) < TT) := Lib.hid (Nat.lt_of_le_of_lt (Nat.div_le_self _ _) HT.out)
        by_cases hr0 : r = 0
        · subst hr0
          have H := H.out
          rw [Nat.sub_zero] at H
          have H := Lib.hid H
          obtain ⟨L, hL⟩ : ∃ L, L = enc (V / 2 ^ k) := ⟨_, rfl⟩
          have HLE : Hid (Value.agg (bcs L).toArray = vN (V / 2 ^ k)) := by rw [hL]; rfl
          rw [← hL] at H
          have HBL : Hid (L.length = 32) := H.out.b.1
          obtain ⟨t, ht⟩ := H.out.b.2
          have HTT := Lib.hid ht
          clear ht hL
          go_wp2_with (first | ((with_reducible show wpList _ _ _ (⟨_, .load 23 (.tmp 5), _, _, _, _⟩ :: _) _ _); go_must (refine wpList_load_arr rfl 23 (.tmp 5) rfl (w.heap.size + 1) 0 rfl (bcs L) (fun i u hu => by rw [Nat.zero_add]; exact row_cells HTT.out i u (by simpa using hu)) _ under23 rfl (by rw [bcs_len, HBL.out]; exact size23) ?_)) | ((with_reducible show wpList _ _ _ (⟨none, .store 23 (.tmp 4) (.tmp 49), _, _, _, _⟩ :: _) _ _); go_must (refine wpList_store_all rfl 23 (.tmp 4) (.tmp 49) rfl (w.heap.size) rfl (bcs L).toArray rfl 23 _ H.out.res (by rw [List.size_toArray, bcs_len, HBL.out]; exact size23) (by rw [List.size_toArray, bcs_len, HBL.out]; rfl) (bcs_one _) ?_; intro x5 hh hg hz; have HH := Lib.hid hh; have HG := Lib.hid hg; clear hh hg hz)) | fail)
          refine bodyPost_ret (results_cell_row rfl _ _ (w.heap.size) 23 (bcs L).toArray _ _ rfl HH.out under23 rfl (by rw [List.size_toArray, bcs_len, HBL.out]; exact size23)) rfl ?_
          exact ⟨by rw [HLE.out], H.out.bel.grown HG.out H.out.bel.size (fun r hr => by injection hr; omega)⟩
        · have hri : (0 : Int) < (r : Int) := by omega
          have hrk : (r : Int) < 10 := by omega
          have HNX : Hid (V / 2 ^ (k - r) / 2 = V / 2 ^ (k - (r - 1))) := by rw [Nat.div_div_eq_div_mul, ← Nat.pow_succ, show (k - r).succ = k - (r - 1) from by omega]; exact Lib.hid rfl
          generalize V / 2 ^ (k - r) = v at *
          go_wp2_with fail
          rw [show decide (0 < r) = true from decide_eq_true (by omega)]
          go_loopw [7] (fun j wi => ∃ i : Nat, ∃ l : List UInt8, i ≤ 32 ∧ j = .int .i64 i ∧ Mix v i l ∧ Sz w l wi) (fun j _ => 32 - (intOf j).toNat)
          case atStart => exact ⟨0, _, by omega, rfl, fun j hj => by rw [if_neg (by omega)]; exact enc_byte v HVT.out j, H.out⟩
          case round =>
            obtain ⟨i, l, hi, rfl, hm, hp⟩ := hrel
            have H1 := Lib.hid hp
            have HM := Lib.hid hm
            clear hp H hm
            have HBL : Hid (l.length = 32) := H1.out.b.1
            obtain ⟨t, ht⟩ := H1.out.b.2
            have HTT := Lib.hid ht
            clear ht
            by_cases hlt : i < 32
            · have hii : (i : Int) < 32 := by omega
              have c0 := H1.out.b.cell i hlt
              generalize hb : (l.getD i 0).toNat = b at c0
              have HB := Lib.hid hb
              clear hb
              have HB256 : Hid (b < 256) := by rw [← HB.out]; exact Lib.hid (UInt8.toNat_lt _)
              have HE : Hid (Value.int IntKind.u8 ((b : Int) / 2 % 256) = bc (UInt8.ofNat (b / 2))) := by
                unfold bc
                rw [of_byte]
                exact Lib.hid (by simp)
              have HH2 : Hid (b / 2 % 256 = b / 2) := by have := HB256.out; exact Lib.hid (by omega)
              by_cases h31 : i < 31
              · have h31i : (i : Int) < 31 := by omega
                generalize hb1 : (l.getD (i + 1) 0).toNat = b1
                have HB1 := Lib.hid hb1
                clear hb1
                have hst := half_step v i
                rw [← (by have h := HM.out i hlt; rw [if_neg (by omega)] at h; exact h : (l.getD i 0).toNat = v / 256 ^ i % 256), ← (by have h := HM.out (i + 1) (by omega); rw [if_neg (by omega)] at h; exact h : (l.getD (i + 1) 0).toNat = v / 256 ^ (i + 1) % 256), HB.out, HB1.out] at hst
                have HST := Lib.hid hst
                clear hst
                by_cases hp1 : b1 % 2 = 1
                · have hpt : ((b1 : Int) % 2 == 1) = true := by
                    rw [show ((b1 : Int)) % 2 = ((b1 % 2 : Nat) : Int) from rfl, hp1]; rfl
                  have HE3 : Hid (Value.int IntKind.u8 (((b : Int) / 2 + 128) % 256) = bc (UInt8.ofNat (b / 2 + 128))) := by
                    unfold bc
                    rw [of_byte]
                    exact Lib.hid (by simp)
                  go_wp2_with (first | ((with_reducible show wpList _ _ _ (⟨none, .store 5 (.tmp 32) (.tmp 31), _, _, _, _⟩ :: _) _ _); go_must (refine wpList_store_one rfl 5 (.tmp 32) (.tmp 31) rfl (w.heap.size + 1) i rfl .u8 _ rfl t _ HTT.out size5 (by simp only [List.size_toArray, bcs_len]; have := HBL.out; omega) ?_; intro x5 hh hg hz; rw [HE.out, bcs_put] at hh; have HT5 := Lib.hid hh; have H2 := Lib.hid (H1.out.set hg (by rw [List.length_set]; exact HBL.out) hh); clear hh hg hz; have c0' := H2.out.b.cell i hlt; rw [getD_set_eq8 _ _ _ (by have := HBL.out; omega), of_byte, HH2.out] at c0'; have c1 := H2.out.b.cell (i + 1) (by omega); rw [getD_set_ne8 _ _ _ _ (by omega), HB1.out] at c1)) | ((with_reducible show wpList _ _ _ (⟨none, .store 5 (.tmp 48) (.tmp 47), _, _, _, _⟩ :: _) _ _); go_must (refine wpList_store_one rfl 5 (.tmp 48) (.tmp 47) rfl (w.heap.size + 1) i rfl .u8 _ rfl t _ HT5.out size5 (by simp only [List.size_toArray, bcs_len, List.length_set]; have := HBL.out; omega) ?_; intro x6 hh hg hz; rw [HE3.out, bcs_put, List.set_set] at hh; have H3 := Lib.hid (H2.out.set hg (by rw [List.length_set]; exact HBL.out) hh); clear hh hg hz)) | fail)
                  exact ⟨⟨i + 1, _, by omega, by go_num, HM.out.next HBL.out hlt (b / 2 + 128) (by rw [HST.out, hp1]; have := HB256.out; omega), H3.out⟩, by simp [intOf]; omega⟩
                · have hpt : ((b1 : Int) % 2 == 1) = false := by
                    rw [show ((b1 : Int)) % 2 = ((b1 % 2 : Nat) : Int) from rfl, show b1 % 2 = 0 from by omega]; rfl
                  go_wp2_with (first | ((with_reducible show wpList _ _ _ (⟨none, .store 5 (.tmp 32) (.tmp 31), _, _, _, _⟩ :: _) _ _); go_must (refine wpList_store_one rfl 5 (.tmp 32) (.tmp 31) rfl (w.heap.size + 1) i rfl .u8 _ rfl t _ HTT.out size5 (by simp only [List.size_toArray, bcs_len]; have := HBL.out; omega) ?_; intro x5 hh hg hz; rw [HE.out, bcs_put] at hh; have HT5 := Lib.hid hh; have H2 := Lib.hid (H1.out.set hg (by rw [List.length_set]; exact HBL.out) hh); clear hh hg hz; have c0' := H2.out.b.cell i hlt; rw [getD_set_eq8 _ _ _ (by have := HBL.out; omega), of_byte, HH2.out] at c0'; have c1 := H2.out.b.cell (i + 1) (by omega); rw [getD_set_ne8 _ _ _ _ (by omega), HB1.out] at c1)) | fail)
                  exact ⟨⟨i + 1, _, by omega, by go_num, HM.out.next HBL.out hlt (b / 2) (by rw [HST.out, show b1 % 2 = 0 from by omega]; have := HH2.out; omega), H2.out⟩, by simp [intOf]; omega⟩
              · have e31 : i = 31 := by omega
                have h31i : ¬ (i : Int) < 31 := by omega
                have hst := half_last v HVT.out
                rw [← e31, ← (by have h := HM.out i hlt; rw [if_neg (by omega)] at h; exact h : (l.getD i 0).toNat = v / 256 ^ i % 256), HB.out] at hst
                clear e31
                have HST := Lib.hid hst
                clear hst
                go_wp2_with (first | ((with_reducible show wpList _ _ _ (⟨none, .store 5 (.tmp 32) (.tmp 31), _, _, _, _⟩ :: _) _ _); go_must (refine wpList_store_one rfl 5 (.tmp 32) (.tmp 31) rfl (w.heap.size + 1) i rfl .u8 _ rfl t _ HTT.out size5 (by simp only [List.size_toArray, bcs_len]; have := HBL.out; omega) ?_; intro x5 hh hg hz; rw [HE.out, bcs_put] at hh; have HT5 := Lib.hid hh; have H2 := Lib.hid (H1.out.set hg (by rw [List.length_set]; exact HBL.out) hh); clear hh hg hz)) | fail)
                exact ⟨⟨i + 1, _, by omega, by go_num, HM.out.next HBL.out hlt (b / 2) (by rw [HST.out]; exact HH2.out), H2.out⟩, by simp [intOf]; omega⟩
            · obtain rfl : i = 32 := by omega
              have hl : l = enc (v / 2) := bytes_eq l (v / 2) (Nat.lt_of_le_of_lt (Nat.div_le_self _ _) HVT.out) HBL.out (fun j hj => by rw [HM.out j hj, if_pos hj])
              subst hl
              have hk2 : IntKind.i64.wrap ((r : Int) - 1) = ((r - 1 : Nat) : Int) := (IntWalk.i64_in _ (by omega)).trans (by omega)
              go_wp2_with fail
              exact ⟨⟨r - 1, by omega, rfl, by rw [← HNX.out]; exact H1.out⟩, by simp [intOf]; omega⟩
end Go.Proofs.Ytgdimnbdnepbgaa
/- The reference's functions in numbers: their right sides are those of the program's. No statement is proved here. -/
namespace Go.Proofs.Ytgdimnbdnepbgaa
open Go.RowKit
set_option linter.unusedVariables false
set_option maxRecDepth 40000
set_option linter.unusedSimpArgs false

theorem rAdd_any (a b : Nat) (ha : a < TT) (hb : b < TT) (w : World) : Calls Try.prog 20 #[vN a, vN b] w (Gives (vN ((a + b) % PP)) w) := by
  obtain ⟨x, x1, x2, x3⟩ := rOpen a ha
  obtain ⟨y, y1, y2, y3⟩ := rOpen b hb
  obtain ⟨z, z1, z2, z3⟩ := Plus_gives x y x1 y1
  rw [Nat.add_mod, ← x2, ← y2, ← Nat.add_mod, ← z2]
  exact rAdd_core a b _ x y z w (Lib.hid x3) (Lib.hid y3) (Lib.hid z3) (Lib.hid fun w => Close_gives z z1 w)
theorem sub_res (a b z : Nat) (h : (z + b) % PP = a % PP) : (a + (PP - b % PP)) % PP = z % PP := by
  have hb : b % PP < PP := modP b
  have e : (a + (PP - b % PP)) % PP = ((z + b) + (PP - b % PP)) % PP := by rw [Nat.add_mod, ← h, ← Nat.add_mod]
  rw [e]
  have hd := Nat.div_add_mod b PP
  rw [show z + b + (PP - b % PP) = z + PP * (b / PP + 1) from by rw [Nat.mul_add]; omega, Nat.add_mul_mod_self_left]
theorem rSub_any (a b : Nat) (ha : a < TT) (hb : b < TT) (w : World) : Calls Try.prog 22 #[vN a, vN b] w (Gives (vN ((a + (PP - b % PP)) % PP)) w) := by
  obtain ⟨x, x1, x2, x3⟩ := rOpen a ha
  obtain ⟨y, y1, y2, y3⟩ := rOpen b hb
  obtain ⟨z, z1, z2, z3⟩ := Minus_gives x y x1 y1
  have e : (a + (PP - b % PP)) % PP = val10 z % PP := by
    refine sub_res a b _ ?_
    rw [Nat.add_mod, ← y2, ← Nat.add_mod, z2, x2]
  rw [e]
  exact rSub_core a b _ x y z w (Lib.hid x3) (Lib.hid y3) (Lib.hid z3) (Lib.hid fun w => Close_gives z z1 w)
theorem rMul_any (a b : Nat) (ha : a < TT) (hb : b < TT) (w : World) : Calls Try.prog 26 #[vN a, vN b] w (Gives (vN (a * b % PP)) w) := by
  obtain ⟨x, x1, x2, x3⟩ := rOpen a ha
  obtain ⟨y, y1, y2, y3⟩ := rOpen b hb
  obtain ⟨z, z1, z2, z3⟩ := Times_gives x y x1 y1
  rw [Nat.mul_mod, ← x2, ← y2, ← Nat.mul_mod, ← z2]
  exact rMul_core a b _ x y z w (Lib.hid x3) (Lib.hid y3) (Lib.hid z3) (Lib.hid fun w => Close_gives z z1 w)
theorem rPow_any (a e : Nat) (ha : a < TT) (he : e < TT) (w : World) : Calls Try.prog 28 #[vN a, vN e] w (Gives (vN (a ^ e % PP)) w) := by
  obtain ⟨x, x1, x2, x3⟩ := rOpen a ha
  rw [Nat.pow_mod, ← x2, ← Nat.pow_mod]
  refine rPow_core a e _ x (fun o => R10 o ∧ val10 o % PP = val10 x ^ e % PP) w (Lib.hid x3) (Lib.hid fun w => ?_) (Lib.hid fun z hz w => ?_)
  · refine (Power_core x (enc e) w (Lib.hid x1) (Lib.hid (enc_len e))).mono ?_
    rintro r w' ⟨o, h1, h2, h3, h4⟩
    rw [nv_enc e he] at h2
    exact ⟨o, ⟨h1, h2⟩, h3, h4⟩
  · rw [← hz.2]
    exact Close_gives z hz.1 w
theorem rNeg_any (a : Nat) (ha : a < TT) (w : World) : Calls Try.prog 24 #[vN a] w (Gives (vN ((PP - a % PP) % PP)) w) := by
  have h : ∀ w, Calls Try.prog 22 #[vN 0, vN a] w (Gives (vN ((0 + (PP - a % PP)) % PP)) w) := fun w => rSub_any 0 a (by unfold TT; omega) ha w
  rw [Nat.zero_add] at h
  exact rNeg_core a _ w (Lib.hid h)
theorem rem_two : ∀ x : Nat, x < 256 → (((x : Int)).tmod 2 == 1) = decide (x % 2 = 1) := by decide +kernel
theorem rOdd_any (a : Nat) (ha : a < TT) (w : World) : Calls Try.prog 32 #[vN a] w (Gives (.bool (decide (a % PP % 2 = 1))) w) := by
  refine rOdd_core a (a % PP) _ w (Lib.hid fun w => rRest_any a ha w) (Lib.hid fun w => index_first _ w) ?_
  have h := rem_two (a % PP % 256) (Nat.mod_lt _ (by omega))
  rw [show a % PP % 256 % 2 = a % PP % 2 from Nat.mod_mod_of_dvd _ ⟨128, by decide⟩] at h
  exact Lib.hid h
theorem rSame_any (a b : Nat) (ha : a < TT) (hb : b < TT) (w : World) : Calls Try.prog 34 #[vN a, vN b] w (Gives (.bool (decide (a % PP = b % PP))) w) :=
  rSame_core a b (a % PP) (b % PP) _ w (Lib.hid fun w => rRest_any a ha w) (Lib.hid fun w => rRest_any b hb w) (Lib.hid fun w => eqN _ _ (modT a) (modT b) w)
theorem shifted_inv (q : Nat) (hq : PP = q + 2) (w : World) : Calls Try.prog 64 #[.int .i64 2, .int .i64 0] w (Gives (vN q) w) := by
  have h := shifted_core 2 0 57896044618658097711785492504343953926634992332820282019728792003956564819947 (by omega) (by omega) (Lib.hid (by decide +kernel)) (Lib.hid (by unfold TT; omega)) w
  rw [show 57896044618658097711785492504343953926634992332820282019728792003956564819947 / 2 ^ 0 = q from by unfold PP at hq; omega] at h
  exact h
theorem shifted_quarter (k : Nat) (hk : PP = 8 * k + 5) (w : World) : Calls Try.prog 64 #[.int .i64 1, .int .i64 2] w (Gives (vN (2 * k + 1)) w) := by
  have h := shifted_core 1 2 57896044618658097711785492504343953926634992332820282019728792003956564819948 (by omega) (by omega) (Lib.hid (by decide +kernel)) (Lib.hid (by unfold TT; omega)) w
  rw [show 57896044618658097711785492504343953926634992332820282019728792003956564819948 / 2 ^ 2 = 2 * k + 1 from by unfold PP at hk; omega] at h
  exact h
theorem shifted_eighth (k : Nat) (hk : PP = 8 * k + 5) (w : World) : Calls Try.prog 64 #[.int .i64 5, .int .i64 3] w (Gives (vN k) w) := by
  have h := shifted_core 5 3 57896044618658097711785492504343953926634992332820282019728792003956564819944 (by omega) (by omega) (Lib.hid (by decide +kernel)) (Lib.hid (by unfold TT; omega)) w
  rw [show 57896044618658097711785492504343953926634992332820282019728792003956564819944 / 2 ^ 3 = k from by unfold PP at hk; omega] at h
  exact h
theorem rInv_any (q : Nat) (hq : PP = q + 2) (a : Nat) (ha : a < TT) (w : World) : Calls Try.prog 30 #[vN a] w (Gives (vN (a ^ q % PP)) w) :=
  rInv_core a q _ w (Lib.hid (shifted_inv q hq)) (Lib.hid fun w => rPow_any a q ha (by have := PP_lt; omega) w)
/-- The square of what is multiplied by a root of -1. -/
theorem minus_sq (p m c i : Nat) (hp : 0 < p) (hi : i * i % p = p - 1) (x : Nat) (hm : x * x % p = m) (hc : c < p) : (x * i % p * (x * i % p) % p = c) ↔ (m = (p - c) % p) := by
  have hmp : m < p := by rw [← hm]; exact Nat.mod_lt _ hp
  have e : x * i % p * (x * i % p) % p = m * (p - 1) % p := by
    rw [← Nat.mul_mod, show x * i * (x * i) = (x * x) * (i * i) from by ac_rfl, Nat.mul_mod, hm, hi]
  have e2 : m * (p - 1) % p = (p - m) % p := by
    have : m * (p - 1) + m = p * m := by rw [← Nat.mul_succ, show (p - 1).succ = p from by omega, Nat.mul_comm]
    by_cases h0 : m = 0
    · subst h0; simp
    · have h1 : m * (p - 1) = p * (m - 1) + (p - m) := by
        have : p * m = p * (m - 1) + p := by rw [← Nat.mul_succ]; congr 1; omega
        omega
      rw [h1, Nat.mul_add_mod]
  rw [e, e2]
  by_cases h0 : m = 0
  · subst h0
    rw [Nat.sub_zero, Nat.mod_self]
    by_cases hc0 : c = 0
    · subst hc0; simp
    · rw [Nat.mod_eq_of_lt (show p - c < p by omega)]
      omega
  · rw [Nat.mod_eq_of_lt (show p - m < p by omega)]
    by_cases hc0 : c = 0
    · subst hc0; rw [Nat.sub_zero, Nat.mod_self]; omega
    · rw [Nat.mod_eq_of_lt (show p - c < p by omega)]
      omega
end Go.Proofs.Ytgdimnbdnepbgaa
/- The reference's Zero, Neg, Add, Check, root, Base. No statement is proved here. -/
namespace Go.Proofs.Ytgdimnbdnepbgaa
open Go.RowKit
set_option linter.unusedVariables false
set_option maxRecDepth 40000
set_option linter.unusedSimpArgs false

set_option maxHeartbeats 600000 in
theorem rZero_core  (w : World)
    (C0 : Hid (∀ w, Calls Try.prog 18 #[.int .u64 1] w (Gives (vN 1) w))) :
    Calls Try.prog 84 #[] w (Gives (vR [0, 1]) w) := by
  have HM0 : Hid (Rws w []) := rw0 w
  have HF0 : Hid (Below w.heap.size w w) := Lib.hid (Below.refl _ _)
  go_enter Try.func84, Try.ntmps84
  go_wp2_with (first | ((with_reducible show wpList _ _ _ (⟨some 0, .alloc 35, _, _, _, _⟩ :: _) _ _); go_must (refine wpList_alloc_row rfl 35 rfl (.agg (zbs 64)) zero35 ?_; intro u1 a1 b1 c1; have HG2 : Hid (w.heap.size ≤ w.heap.size) := Lib.hid HF0.out.size; have HM2 := rwN HM0 (below_of_grownBy c1) (cbS (cs := bcs (List.replicate 64 0)) a1); have HF2 := bT HF0 (below_of_grownBy c1); clear a1 b1 c1 HM0 HF0)) | fail)
  refine (C0.out _).mono ?_
  rintro e3 x3 ⟨rfl, hb3⟩
  have HM3 := rwC HM2 hb3
  have HF3 := bT HF2 hb3
  clear hb3 HM2 HF2
  go_wp2_with (first | ((with_reducible show wpList _ _ _ (⟨some 2, .build 35 _, _, _, _, _⟩ :: _) _ _); go_must (refine wpList_exec rfl (vR [0, 1]) (exec_buildc rfl (by kernel_rfl)) ?_)) | ((with_reducible show wpList _ _ _ (⟨none, .store 35 (.tmp 0) (.tmp 2), _, _, _, _⟩ :: _) _ _); go_must (refine wpList_put rfl 35 (.tmp 0) (.tmp 2) rfl (w.heap.size) rfl (bcs (encs [0, 1])) (bcs (List.replicate 64 0)) rfl (rwG HM3 0 rfl) (by rw [cr]; exact size35) (by rw [cr]; rfl) (bcs_one' _) HF3.out HG2.out ?_; intro y4 hc4 hb4; have HC4 := Lib.hid hc4; have HF4 := Lib.hid hb4; clear hc4 hb4 HM3 HF3)) | fail)
  obtain ⟨tr, htr⟩ := HC4.out
  exact bodyPost_ret (results_cell_row rfl _ _ (w.heap.size) tr (bcs (encs [0, 1])).toArray _ _ rfl htr Try.underlying35 rfl (by rw [List.size_toArray, cr]; exact size35)) rfl ⟨rfl, HF4.out⟩

set_option maxHeartbeats 600000 in
theorem rNeg_P (px py m : Nat) (w : World)
    (C0 : Hid (∀ w, Calls Try.prog 49 #[vR [px, py]] w (Gives (.int .i64 0) w)))
    (C1 : Hid (∀ w, Calls Try.prog 24 #[vN px] w (Gives (vN m) w))) :
    Calls Try.prog 52 #[vR [px, py]] w (Gives (vR [m, py]) w) := by
  have HM0 : Hid (Rws w []) := rw0 w
  have HF0 : Hid (Below w.heap.size w w) := Lib.hid (Below.refl _ _)
  go_enter Try.func52, Try.ntmps52
  go_wp2_with (first | ((with_reducible show wpList _ _ _ (⟨some 1, .box 35 (.tmp 0), _, _, _, _⟩ :: _) _ _); go_must (refine wpList_box_row rfl 35 (.tmp 0) rfl (bcs (encs [px, py])).toArray rfl ?_; intro u1 a1 b1 c1; have HG2 : Hid (w.heap.size ≤ w.heap.size) := Lib.hid HF0.out.size; have HM2 := rwN HM0 (below_of_grownBy c1) (cbS (cs := bcs (encs [px, py])) a1); have HF2 := bT HF0 (below_of_grownBy c1); clear a1 b1 c1 HM0 HF0)) | ((with_reducible show wpList _ _ _ (⟨some 2, .alloc 35, _, _, _, _⟩ :: _) _ _); go_must (refine wpList_alloc_row rfl 35 rfl (.agg (zbs 64)) zero35 ?_; intro u3 a3 b3 c3; have HG4 : Hid (w.heap.size ≤ u1.heap.size) := Lib.hid HF2.out.size; have HM4 := rwN HM2 (below_of_grownBy c3) (cbS (cs := bcs (List.replicate 64 0)) a3); have HF4 := bT HF2 (below_of_grownBy c3); clear a3 b3 c3 HM2 HF2)) | ((with_reducible show wpList _ _ _ (⟨some 3, .load 35 (.tmp 1), _, _, _, _⟩ :: _) _ _); go_must (refine wpList_exec rfl (vR [px, py]) (loadP (.tmp 1) rfl (w.heap.size) px py rfl (rwG HM4 1 rfl)) ?_)) | fail)
  generalize u1.heap.size = gr at *
  refine (C0.out _).mono ?_
  rintro e5 x5 ⟨rfl, hb5⟩
  have HM5 := rwC HM4 hb5
  have HF5 := bT HF4 hb5
  clear hb5 HM4 HF4
  go_wp2_with fail
  refine RO.region_out (P := Try.prog) [.val (.pointer (some ⟨w.heap.size, 0, none⟩)), .val (vN px), .val (vN m), .val (.pointer (some ⟨w.heap.size, 32, none⟩)), .val (vN py), .val (vR [m, py])] 13 6 rfl (by kernel_rfl) (by kernel_rfl) (by kernel_rfl) (by kernel_rfl) rfl rfl ⟨
    fun γ a_ w_ hb D => .inl (exec_field 35 (.tmp 1) 0 rfl (w.heap.size) 0 (D.2 1 rfl) (fld35_0 _)),
    fun γ a_ w_ hb D => .inl (loadX (.tmp 7) rfl (w.heap.size) px py (D.1 0 7 rfl rfl) ((rwG HM5 1 rfl).keep hb)),
    fun γ a_ w_ hb D => vcall 24 [.tmp 8] #[23] rfl [vN px] (hx1 (D.1 1 8 rfl rfl)) (CG24 _) C1.out,
    fun γ a_ w_ hb D => .inl (exec_field 35 (.tmp 1) 1 rfl (w.heap.size) 32 (D.2 1 rfl) (fld35_1 _)),
    fun γ a_ w_ hb D => .inl (loadY (.tmp 10) rfl (w.heap.size) px py (D.1 3 10 rfl rfl) ((rwG HM5 1 rfl).keep hb)),
    fun γ a_ w_ hb D => .inl (exec_build35 (.tmp 9) (.tmp 11) m py rfl (D.1 2 9 rfl rfl) (D.1 4 11 rfl rfl)),
    trivial⟩ (by kernel_rfl) _ rfl rfl ?_
  intro γ W6 F6
  simp only [RO.lexi, RO.vof, Act.put, List.setIfInBounds_toArray, List.set_cons_zero, List.set_cons_succ, List.getElem?_cons_zero, List.getElem?_cons_succ, List.take_succ_cons, List.take_zero]
  refine exec_putR (w0 := w) 35 (.tmp 2) (.tmp 12) rfl (gr) rfl (bcs (encs [m, py])) (bcs (List.replicate 64 0)) rfl ((rwG HM5 0 rfl).keep F6.bel) (by rw [cr]; exact size35) (by rw [cr]; rfl) (bcs_one' _) (bT HF5 F6.bel).out HG4.out ?_
  intro y6 hc6 hb6
  have HC6 := Lib.hid hc6
  have HF6 := Lib.hid hb6
  clear hc6 hb6 F6 HM5 HF5
  go_wp2_with fail
  obtain ⟨tr, htr⟩ := HC6.out
  exact bodyPost_ret (results_cell_row rfl _ _ (gr) tr (bcs (encs [m, py])).toArray _ _ rfl htr Try.underlying35 rfl (by rw [List.size_toArray, cr]; exact size35)) rfl ⟨rfl, HF6.out⟩

set_option maxHeartbeats 600000 in
theorem rNeg_bad (px py : Nat) (w : World)
    (C0 : Hid (∀ w, Calls Try.prog 49 #[vR [px, py]] w (Gives (.int .i64 2) w)))
    (C1 : Hid (∀ w, Calls Try.prog 84 #[] w (Gives (vR [0, 1]) w))) :
    Calls Try.prog 52 #[vR [px, py]] w (Gives (vR [0, 1]) w) := by
  have HM0 : Hid (Rws w []) := rw0 w
  have HF0 : Hid (Below w.heap.size w w) := Lib.hid (Below.refl _ _)
  go_enter Try.func52, Try.ntmps52
  go_wp2_with (first | ((with_reducible show wpList _ _ _ (⟨some 1, .box 35 (.tmp 0), _, _, _, _⟩ :: _) _ _); go_must (refine wpList_box_row rfl 35 (.tmp 0) rfl (bcs (encs [px, py])).toArray rfl ?_; intro u1 a1 b1 c1; have HG2 : Hid (w.heap.size ≤ w.heap.size) := Lib.hid HF0.out.size; have HM2 := rwN HM0 (below_of_grownBy c1) (cbS (cs := bcs (encs [px, py])) a1); have HF2 := bT HF0 (below_of_grownBy c1); clear a1 b1 c1 HM0 HF0)) | ((with_reducible show wpList _ _ _ (⟨some 2, .alloc 35, _, _, _, _⟩ :: _) _ _); go_must (refine wpList_alloc_row rfl 35 rfl (.agg (zbs 64)) zero35 ?_; intro u3 a3 b3 c3; have HG4 : Hid (w.heap.size ≤ u1.heap.size) := Lib.hid HF2.out.size; have HM4 := rwN HM2 (below_of_grownBy c3) (cbS (cs := bcs (List.replicate 64 0)) a3); have HF4 := bT HF2 (below_of_grownBy c3); clear a3 b3 c3 HM2 HF2)) | ((with_reducible show wpList _ _ _ (⟨some 3, .load 35 (.tmp 1), _, _, _, _⟩ :: _) _ _); go_must (refine wpList_exec rfl (vR [px, py]) (loadP (.tmp 1) rfl (w.heap.size) px py rfl (rwG HM4 1 rfl)) ?_)) | fail)
  generalize u1.heap.size = gr at *
  refine (C0.out _).mono ?_
  rintro e5 x5 ⟨rfl, hb5⟩
  have HM5 := rwC HM4 hb5
  have HF5 := bT HF4 hb5
  clear hb5 HM4 HF4
  go_wp2_with fail
  refine (C1.out _).mono ?_
  rintro e6 x6 ⟨rfl, hb6⟩
  have HM6 := rwC HM5 hb6
  have HF6 := bT HF5 hb6
  clear hb6 HM5 HF5
  go_wp2_with (first | ((with_reducible show wpList _ _ _ (⟨none, .store 35 (.tmp 2) (.tmp 6), _, _, _, _⟩ :: _) _ _); go_must (refine wpList_put rfl 35 (.tmp 2) (.tmp 6) rfl (gr) rfl (bcs (encs [0, 1])) (bcs (List.replicate 64 0)) rfl (rwG HM6 0 rfl) (by rw [cr]; exact size35) (by rw [cr]; rfl) (bcs_one' _) HF6.out HG4.out ?_; intro y7 hc7 hb7; have HC7 := Lib.hid hc7; have HF7 := Lib.hid hb7; clear hc7 hb7 HM6 HF6)) | fail)
  obtain ⟨tr, htr⟩ := HC7.out
  exact bodyPost_ret (results_cell_row rfl _ _ (gr) tr (bcs (encs [0, 1])).toArray _ _ rfl htr Try.underlying35 rfl (by rw [List.size_toArray, cr]; exact size35)) rfl ⟨rfl, HF7.out⟩

set_option maxHeartbeats 600000 in
theorem rAdd_P (px py qx qy dd rx ry : Nat) (d p1 p2 p3 q1 q2 q3 s1 s2 s3 : List Nat) (w : World)
    (C0 : Hid (∀ w, Calls Try.prog 49 #[vR [px, py]] w (Gives (.int .i64 0) w)))
    (C1 : Hid (∀ w, Calls Try.prog 49 #[vR [qx, qy]] w (Gives (.int .i64 0) w)))
    (C2 : Hid (∀ w, Calls Try.prog 46 #[] w (Gives (vN dd) w)))
    (C3 : Hid (∀ w, Calls Try.prog 68 #[vN dd] w (Gives (.agg (ics d).toArray) w)))
    (C4 : Hid (∀ w, Calls Try.prog 87 #[vR [px, py]] w (Gives (.agg (ics (fw p1 p2 p3)).toArray) w)))
    (C5 : Hid (∀ w, Calls Try.prog 87 #[vR [qx, qy]] w (Gives (.agg (ics (fw q1 q2 q3)).toArray) w)))
    (C6 : Hid (∀ w, Calls Try.prog 86 #[.agg (ics d).toArray, .agg (ics (fw p1 p2 p3)).toArray, .agg (ics (fw q1 q2 q3)).toArray] w (Gives (.agg (ics (fw s1 s2 s3)).toArray) w)))
    (C7 : Hid (∀ w, Calls Try.prog 85 #[.agg (ics (fw s1 s2 s3)).toArray] w (Gives (vR [rx, ry]) w))) :
    Calls Try.prog 50 #[vR [px, py], vR [qx, qy]] w (Gives (vR [rx, ry]) w) := by
  have HM0 : Hid (Rws w []) := rw0 w
  have HF0 : Hid (Below w.heap.size w w) := Lib.hid (Below.refl _ _)
  go_enter Try.func50, Try.ntmps50
  go_wp2_with (first | ((with_reducible show wpList _ _ _ (⟨some 2, .box 35 (.tmp 0), _, _, _, _⟩ :: _) _ _); go_must (refine wpList_box_row rfl 35 (.tmp 0) rfl (bcs (encs [px, py])).toArray rfl ?_; intro u1 a1 b1 c1; have HG2 : Hid (w.heap.size ≤ w.heap.size) := Lib.hid HF0.out.size; have HM2 := rwN HM0 (below_of_grownBy c1) (cbS (cs := bcs (encs [px, py])) a1); have HF2 := bT HF0 (below_of_grownBy c1); clear a1 b1 c1 HM0 HF0)) | ((with_reducible show wpList _ _ _ (⟨some 3, .box 35 (.tmp 1), _, _, _, _⟩ :: _) _ _); go_must (refine wpList_box_row rfl 35 (.tmp 1) rfl (bcs (encs [qx, qy])).toArray rfl ?_; intro u3 a3 b3 c3; have HG4 : Hid (w.heap.size ≤ u1.heap.size) := Lib.hid HF2.out.size; have HM4 := rwN HM2 (below_of_grownBy c3) (cbS (cs := bcs (encs [qx, qy])) a3); have HF4 := bT HF2 (below_of_grownBy c3); clear a3 b3 c3 HM2 HF2)) | ((with_reducible show wpList _ _ _ (⟨some 4, .alloc 35, _, _, _, _⟩ :: _) _ _); go_must (refine wpList_alloc_row rfl 35 rfl (.agg (zbs 64)) zero35 ?_; intro u5 a5 b5 c5; have HG6 : Hid (w.heap.size ≤ u3.heap.size) := Lib.hid HF4.out.size; have HM6 := rwN HM4 (below_of_grownBy c5) (cbS (cs := bcs (List.replicate 64 0)) a5); have HF6 := bT HF4 (below_of_grownBy c5); clear a5 b5 c5 HM4 HF4)) | ((with_reducible show wpList _ _ _ (⟨some 5, .load 35 (.tmp 2), _, _, _, _⟩ :: _) _ _); go_must (refine wpList_exec rfl (vR [px, py]) (loadP (.tmp 2) rfl (w.heap.size) px py rfl (rwG HM6 2 rfl)) ?_)) | fail)
  generalize u1.heap.size = gq at *
  generalize u3.heap.size = gr at *
  refine (C0.out _).mono ?_
  rintro e7 x7 ⟨rfl, hb7⟩
  have HM7 := rwC HM6 hb7
  have HF7 := bT HF6 hb7
  clear hb7 HM6 HF6
  go_wp2_with (first | ((with_reducible show wpList _ _ _ (⟨some 9, .load 35 (.tmp 3), _, _, _, _⟩ :: _) _ _); go_must (refine wpList_exec rfl (vR [qx, qy]) (loadP (.tmp 3) rfl (gq) qx qy rfl (rwG HM7 1 rfl)) ?_)) | fail)
  refine (C1.out _).mono ?_
  rintro e8 x8 ⟨rfl, hb8⟩
  have HM8 := rwC HM7 hb8
  have HF8 := bT HF7 hb8
  clear hb8 HM7 HF7
  go_wp2_with fail
  refine RO.region_out (P := Try.prog) [.val (vN dd), .val (.agg (ics d).toArray), .val (vR [px, py]), .val (.agg (ics (fw p1 p2 p3)).toArray), .val (vR [qx, qy]), .val (.agg (ics (fw q1 q2 q3)).toArray), .val (.agg (ics (fw s1 s2 s3)).toArray), .val (vR [rx, ry])] 22 8 rfl (by kernel_rfl) (by kernel_rfl) (by kernel_rfl) (by kernel_rfl) rfl rfl ⟨
    fun γ a_ w_ hb D => vcall 46 [] #[] rfl [] rfl (CG46 _) C2.out,
    fun γ a_ w_ hb D => vcall 68 [.tmp 14] #[23] rfl [vN dd] (hx1 (D.1 0 14 rfl rfl)) (CG68 _) C3.out,
    fun γ a_ w_ hb D => .inl (loadP (.tmp 2) rfl (w.heap.size) px py (D.2 2 rfl) ((rwG HM8 2 rfl).keep hb)),
    fun γ a_ w_ hb D => vcall 87 [.tmp 16] #[35] rfl [vR [px, py]] (hx1 (D.1 2 16 rfl rfl)) (CG87 _) C4.out,
    fun γ a_ w_ hb D => .inl (loadP (.tmp 3) rfl (gq) qx qy (D.2 3 rfl) ((rwG HM8 1 rfl).keep hb)),
    fun γ a_ w_ hb D => vcall 87 [.tmp 18] #[35] rfl [vR [qx, qy]] (hx1 (D.1 4 18 rfl rfl)) (CG87 _) C5.out,
    fun γ a_ w_ hb D => vcall 86 [.tmp 15, .tmp 17, .tmp 19] #[65, 83, 83] rfl [.agg (ics d).toArray, .agg (ics (fw p1 p2 p3)).toArray, .agg (ics (fw q1 q2 q3)).toArray] (hx3 (D.1 1 15 rfl rfl) (D.1 3 17 rfl rfl) (D.1 5 19 rfl rfl)) (CG86 _) C6.out,
    fun γ a_ w_ hb D => vcall 85 [.tmp 20] #[83] rfl [.agg (ics (fw s1 s2 s3)).toArray] (hx1 (D.1 6 20 rfl rfl)) (CG85 _) C7.out,
    trivial⟩ (by kernel_rfl) _ rfl rfl ?_
  intro γ W9 F9
  simp only [RO.lexi, RO.vof, Act.put, List.setIfInBounds_toArray, List.set_cons_zero, List.set_cons_succ, List.getElem?_cons_zero, List.getElem?_cons_succ, List.take_succ_cons, List.take_zero]
  refine exec_putR (w0 := w) 35 (.tmp 4) (.tmp 21) rfl (gr) rfl (bcs (encs [rx, ry])) (bcs (List.replicate 64 0)) rfl ((rwG HM8 0 rfl).keep F9.bel) (by rw [cr]; exact size35) (by rw [cr]; rfl) (bcs_one' _) (bT HF8 F9.bel).out HG6.out ?_
  intro y9 hc9 hb9
  have HC9 := Lib.hid hc9
  have HF9 := Lib.hid hb9
  clear hc9 hb9 F9 HM8 HF8
  go_wp2_with fail
  obtain ⟨tr, htr⟩ := HC9.out
  exact bodyPost_ret (results_cell_row rfl _ _ (gr) tr (bcs (encs [rx, ry])).toArray _ _ rfl htr Try.underlying35 rfl (by rw [List.size_toArray, cr]; exact size35)) rfl ⟨rfl, HF9.out⟩

set_option maxHeartbeats 600000 in
theorem rAdd_bad1 (px py qx qy : Nat) (w : World)
    (C0 : Hid (∀ w, Calls Try.prog 49 #[vR [px, py]] w (Gives (.int .i64 2) w)))
    (C1 : Hid (∀ w, Calls Try.prog 84 #[] w (Gives (vR [0, 1]) w))) :
    Calls Try.prog 50 #[vR [px, py], vR [qx, qy]] w (Gives (vR [0, 1]) w) := by
  have HM0 : Hid (Rws w []) := rw0 w
  have HF0 : Hid (Below w.heap.size w w) := Lib.hid (Below.refl _ _)
  go_enter Try.func50, Try.ntmps50
  go_wp2_with (first | ((with_reducible show wpList _ _ _ (⟨some 2, .box 35 (.tmp 0), _, _, _, _⟩ :: _) _ _); go_must (refine wpList_box_row rfl 35 (.tmp 0) rfl (bcs (encs [px, py])).toArray rfl ?_; intro u1 a1 b1 c1; have HG2 : Hid (w.heap.size ≤ w.heap.size) := Lib.hid HF0.out.size; have HM2 := rwN HM0 (below_of_grownBy c1) (cbS (cs := bcs (encs [px, py])) a1); have HF2 := bT HF0 (below_of_grownBy c1); clear a1 b1 c1 HM0 HF0)) | ((with_reducible show wpList _ _ _ (⟨some 3, .box 35 (.tmp 1), _, _, _, _⟩ :: _) _ _); go_must (refine wpList_box_row rfl 35 (.tmp 1) rfl (bcs (encs [qx, qy])).toArray rfl ?_; intro u3 a3 b3 c3; have HG4 : Hid (w.heap.size ≤ u1.heap.size) := Lib.hid HF2.out.size; have HM4 := rwN HM2 (below_of_grownBy c3) (cbS (cs := bcs (encs [qx, qy])) a3); have HF4 := bT HF2 (below_of_grownBy c3); clear a3 b3 c3 HM2 HF2)) | ((with_reducible show wpList _ _ _ (⟨some 4, .alloc 35, _, _, _, _⟩ :: _) _ _); go_must (refine wpList_alloc_row rfl 35 rfl (.agg (zbs 64)) zero35 ?_; intro u5 a5 b5 c5; have HG6 : Hid (w.heap.size ≤ u3.heap.size) := Lib.hid HF4.out.size; have HM6 := rwN HM4 (below_of_grownBy c5) (cbS (cs := bcs (List.replicate 64 0)) a5); have HF6 := bT HF4 (below_of_grownBy c5); clear a5 b5 c5 HM4 HF4)) | ((with_reducible show wpList _ _ _ (⟨some 5, .load 35 (.tmp 2), _, _, _, _⟩ :: _) _ _); go_must (refine wpList_exec rfl (vR [px, py]) (loadP (.tmp 2) rfl (w.heap.size) px py rfl (rwG HM6 2 rfl)) ?_)) | fail)
  generalize u1.heap.size = gq at *
  generalize u3.heap.size = gr at *
  refine (C0.out _).mono ?_
  rintro e7 x7 ⟨rfl, hb7⟩
  have HM7 := rwC HM6 hb7
  have HF7 := bT HF6 hb7
  clear hb7 HM6 HF6
  go_wp2_with fail
  refine (C1.out _).mono ?_
  rintro e8 x8 ⟨rfl, hb8⟩
  have HM8 := rwC HM7 hb8
  have HF8 := bT HF7 hb8
  clear hb8 HM7 HF7
  go_wp2_with (first | ((with_reducible show wpList _ _ _ (⟨none, .store 35 (.tmp 4) (.tmp 13), _, _, _, _⟩ :: _) _ _); go_must (refine wpList_put rfl 35 (.tmp 4) (.tmp 13) rfl (gr) rfl (bcs (encs [0, 1])) (bcs (List.replicate 64 0)) rfl (rwG HM8 0 rfl) (by rw [cr]; exact size35) (by rw [cr]; rfl) (bcs_one' _) HF8.out HG6.out ?_; intro y9 hc9 hb9; have HC9 := Lib.hid hc9; have HF9 := Lib.hid hb9; clear hc9 hb9 HM8 HF8)) | fail)
  obtain ⟨tr, htr⟩ := HC9.out
  exact bodyPost_ret (results_cell_row rfl _ _ (gr) tr (bcs (encs [0, 1])).toArray _ _ rfl htr Try.underlying35 rfl (by rw [List.size_toArray, cr]; exact size35)) rfl ⟨rfl, HF9.out⟩

set_option maxHeartbeats 600000 in
theorem rAdd_bad2 (px py qx qy : Nat) (w : World)
    (C0 : Hid (∀ w, Calls Try.prog 49 #[vR [px, py]] w (Gives (.int .i64 0) w)))
    (C1 : Hid (∀ w, Calls Try.prog 49 #[vR [qx, qy]] w (Gives (.int .i64 2) w)))
    (C2 : Hid (∀ w, Calls Try.prog 84 #[] w (Gives (vR [0, 1]) w))) :
    Calls Try.prog 50 #[vR [px, py], vR [qx, qy]] w (Gives (vR [0, 1]) w) := by
  have HM0 : Hid (Rws w []) := rw0 w
  have HF0 : Hid (Below w.heap.size w w) := Lib.hid (Below.refl _ _)
  go_enter Try.func50, Try.ntmps50
  go_wp2_with (first | ((with_reducible show wpList _ _ _ (⟨some 2, .box 35 (.tmp 0), _, _, _, _⟩ :: _) _ _); go_must (refine wpList_box_row rfl 35 (.tmp 0) rfl (bcs (encs [px, py])).toArray rfl ?_; intro u1 a1 b1 c1; have HG2 : Hid (w.heap.size ≤ w.heap.size) := Lib.hid HF0.out.size; have HM2 := rwN HM0 (below_of_grownBy c1) (cbS (cs := bcs (encs [px, py])) a1); have HF2 := bT HF0 (below_of_grownBy c1); clear a1 b1 c1 HM0 HF0)) | ((with_reducible show wpList _ _ _ (⟨some 3, .box 35 (.tmp 1), _, _, _, _⟩ :: _) _ _); go_must (refine wpList_box_row rfl 35 (.tmp 1) rfl (bcs (encs [qx, qy])).toArray rfl ?_; intro u3 a3 b3 c3; have HG4 : Hid (w.heap.size ≤ u1.heap.size) := Lib.hid HF2.out.size; have HM4 := rwN HM2 (below_of_grownBy c3) (cbS (cs := bcs (encs [qx, qy])) a3); have HF4 := bT HF2 (below_of_grownBy c3); clear a3 b3 c3 HM2 HF2)) | ((with_reducible show wpList _ _ _ (⟨some 4, .alloc 35, _, _, _, _⟩ :: _) _ _); go_must (refine wpList_alloc_row rfl 35 rfl (.agg (zbs 64)) zero35 ?_; intro u5 a5 b5 c5; have HG6 : Hid (w.heap.size ≤ u3.heap.size) := Lib.hid HF4.out.size; have HM6 := rwN HM4 (below_of_grownBy c5) (cbS (cs := bcs (List.replicate 64 0)) a5); have HF6 := bT HF4 (below_of_grownBy c5); clear a5 b5 c5 HM4 HF4)) | ((with_reducible show wpList _ _ _ (⟨some 5, .load 35 (.tmp 2), _, _, _, _⟩ :: _) _ _); go_must (refine wpList_exec rfl (vR [px, py]) (loadP (.tmp 2) rfl (w.heap.size) px py rfl (rwG HM6 2 rfl)) ?_)) | fail)
  generalize u1.heap.size = gq at *
  generalize u3.heap.size = gr at *
  refine (C0.out _).mono ?_
  rintro e7 x7 ⟨rfl, hb7⟩
  have HM7 := rwC HM6 hb7
  have HF7 := bT HF6 hb7
  clear hb7 HM6 HF6
  go_wp2_with (first | ((with_reducible show wpList _ _ _ (⟨some 9, .load 35 (.tmp 3), _, _, _, _⟩ :: _) _ _); go_must (refine wpList_exec rfl (vR [qx, qy]) (loadP (.tmp 3) rfl (gq) qx qy rfl (rwG HM7 1 rfl)) ?_)) | fail)
  refine (C1.out _).mono ?_
  rintro e8 x8 ⟨rfl, hb8⟩
  have HM8 := rwC HM7 hb8
  have HF8 := bT HF7 hb8
  clear hb8 HM7 HF7
  go_wp2_with fail
  refine (C2.out _).mono ?_
  rintro e9 x9 ⟨rfl, hb9⟩
  have HM9 := rwC HM8 hb9
  have HF9 := bT HF8 hb9
  clear hb9 HM8 HF8
  go_wp2_with (first | ((with_reducible show wpList _ _ _ (⟨none, .store 35 (.tmp 4) (.tmp 13), _, _, _, _⟩ :: _) _ _); go_must (refine wpList_put rfl 35 (.tmp 4) (.tmp 13) rfl (gr) rfl (bcs (encs [0, 1])) (bcs (List.replicate 64 0)) rfl (rwG HM9 0 rfl) (by rw [cr]; exact size35) (by rw [cr]; rfl) (bcs_one' _) HF9.out HG6.out ?_; intro y10 hc10 hb10; have HC10 := Lib.hid hc10; have HF10 := Lib.hid hb10; clear hc10 hb10 HM9 HF9)) | fail)
  obtain ⟨tr, htr⟩ := HC10.out
  exact bodyPost_ret (results_cell_row rfl _ _ (gr) tr (bcs (encs [0, 1])).toArray _ _ rfl htr Try.underlying35 rfl (by rw [List.size_toArray, cr]; exact size35)) rfl ⟨rfl, HF10.out⟩

set_option maxHeartbeats 600000 in
theorem rCheck_n1 (px py : Nat) (w : World)
    (C0 : Hid (∀ w, Calls Try.prog 16 #[vN px] w (Gives (.bool false) w))) :
    Calls Try.prog 49 #[vR [px, py]] w (Gives (.int .i64 2) w) := by
  have HM0 : Hid (Rws w []) := rw0 w
  have HF0 : Hid (Below w.heap.size w w) := Lib.hid (Below.refl _ _)
  go_enter Try.func49, Try.ntmps49
  go_wp2_with (first | ((with_reducible show wpList _ _ _ (⟨some 1, .box 35 (.tmp 0), _, _, _, _⟩ :: _) _ _); go_must (refine wpList_box_row rfl 35 (.tmp 0) rfl (bcs (encs [px, py])).toArray rfl ?_; intro u1 a1 b1 c1; have HG2 : Hid (w.heap.size ≤ w.heap.size) := Lib.hid HF0.out.size; have HM2 := rwN HM0 (below_of_grownBy c1) (cbS (cs := bcs (encs [px, py])) a1); have HF2 := bT HF0 (below_of_grownBy c1); clear a1 b1 c1 HM0 HF0)) | ((with_reducible show wpList _ _ _ (⟨some 7, .load 23 (.tmp 6), _, _, _, _⟩ :: _) _ _); go_must (refine wpList_exec rfl (vN px) (loadX (.tmp 6) rfl (w.heap.size) px py rfl (rwG HM2 0 rfl)) ?_)) | fail)
  refine (C0.out _).mono ?_
  rintro e3 x3 ⟨rfl, hb3⟩
  have HM3 := rwC HM2 hb3
  have HF3 := bT HF2 hb3
  clear hb3 HM2 HF2
  go_wp2
  go_ret
  exact ⟨rfl, HF3.out⟩

set_option maxHeartbeats 600000 in
theorem rCheck_n2 (px py : Nat) (w : World)
    (C0 : Hid (∀ w, Calls Try.prog 16 #[vN px] w (Gives (.bool true) w)))
    (C1 : Hid (∀ w, Calls Try.prog 16 #[vN py] w (Gives (.bool false) w))) :
    Calls Try.prog 49 #[vR [px, py]] w (Gives (.int .i64 2) w) := by
  have HM0 : Hid (Rws w []) := rw0 w
  have HF0 : Hid (Below w.heap.size w w) := Lib.hid (Below.refl _ _)
  go_enter Try.func49, Try.ntmps49
  go_wp2_with (first | ((with_reducible show wpList _ _ _ (⟨some 1, .box 35 (.tmp 0), _, _, _, _⟩ :: _) _ _); go_must (refine wpList_box_row rfl 35 (.tmp 0) rfl (bcs (encs [px, py])).toArray rfl ?_; intro u1 a1 b1 c1; have HG2 : Hid (w.heap.size ≤ w.heap.size) := Lib.hid HF0.out.size; have HM2 := rwN HM0 (below_of_grownBy c1) (cbS (cs := bcs (encs [px, py])) a1); have HF2 := bT HF0 (below_of_grownBy c1); clear a1 b1 c1 HM0 HF0)) | ((with_reducible show wpList _ _ _ (⟨some 7, .load 23 (.tmp 6), _, _, _, _⟩ :: _) _ _); go_must (refine wpList_exec rfl (vN px) (loadX (.tmp 6) rfl (w.heap.size) px py rfl (rwG HM2 0 rfl)) ?_)) | fail)
  refine (C0.out _).mono ?_
  rintro e3 x3 ⟨rfl, hb3⟩
  have HM3 := rwC HM2 hb3
  have HF3 := bT HF2 hb3
  clear hb3 HM2 HF2
  go_wp2_with (first | ((with_reducible show wpList _ _ _ (⟨some 12, .load 23 (.tmp 11), _, _, _, _⟩ :: _) _ _); go_must (refine wpList_exec rfl (vN py) (loadY (.tmp 11) rfl (w.heap.size) px py rfl (rwG HM3 0 rfl)) ?_)) | fail)
  refine (C1.out _).mono ?_
  rintro e4 x4 ⟨rfl, hb4⟩
  have HM4 := rwC HM3 hb4
  have HF4 := bT HF3 hb4
  clear hb4 HM3 HF3
  go_wp2
  go_ret
  exact ⟨rfl, HF4.out⟩

set_option maxHeartbeats 600000 in
theorem rCheck_y (px py a b c s t l e p q n : Nat) (z : Bool) (res : Int) (w : World)
    (C0 : Hid (∀ w, Calls Try.prog 16 #[vN px] w (Gives (.bool true) w)))
    (C1 : Hid (∀ w, Calls Try.prog 16 #[vN py] w (Gives (.bool true) w)))
    (C2 : Hid (∀ w, Calls Try.prog 26 #[vN px, vN px] w (Gives (vN a) w)))
    (C3 : Hid (∀ w, Calls Try.prog 26 #[vN py, vN py] w (Gives (vN b) w)))
    (C4 : Hid (∀ w, Calls Try.prog 18 #[.int .u64 121666] w (Gives (vN c) w)))
    (C5 : Hid (∀ w, Calls Try.prog 22 #[vN b, vN a] w (Gives (vN s) w)))
    (C6 : Hid (∀ w, Calls Try.prog 18 #[.int .u64 1] w (Gives (vN 1) w)))
    (C7 : Hid (∀ w, Calls Try.prog 22 #[vN s, vN 1] w (Gives (vN t) w)))
    (C8 : Hid (∀ w, Calls Try.prog 26 #[vN c, vN t] w (Gives (vN l) w)))
    (C9 : Hid (∀ w, Calls Try.prog 18 #[.int .u64 121665] w (Gives (vN e) w)))
    (C10 : Hid (∀ w, Calls Try.prog 26 #[vN a, vN b] w (Gives (vN p) w)))
    (C11 : Hid (∀ w, Calls Try.prog 26 #[vN e, vN p] w (Gives (vN q) w)))
    (C12 : Hid (∀ w, Calls Try.prog 24 #[vN q] w (Gives (vN n) w)))
    (HE : Hid (∀ w, (Op.equalIn 10000 23 (vN l) (vN n)).run Try.prog w = .ok z w)) (HRES : Hid ((if z then 0 else 2 : Int) = res)) :
    Calls Try.prog 49 #[vR [px, py]] w (Gives (.int .i64 res) w) := by
  have HM0 : Hid (Rws w []) := rw0 w
  have HF0 : Hid (Below w.heap.size w w) := Lib.hid (Below.refl _ _)
  go_enter Try.func49, Try.ntmps49
  go_wp2_with (first | ((with_reducible show wpList _ _ _ (⟨some 1, .box 35 (.tmp 0), _, _, _, _⟩ :: _) _ _); go_must (refine wpList_box_row rfl 35 (.tmp 0) rfl (bcs (encs [px, py])).toArray rfl ?_; intro u1 a1 b1 c1; have HG2 : Hid (w.heap.size ≤ w.heap.size) := Lib.hid HF0.out.size; have HM2 := rwN HM0 (below_of_grownBy c1) (cbS (cs := bcs (encs [px, py])) a1); have HF2 := bT HF0 (below_of_grownBy c1); clear a1 b1 c1 HM0 HF0)) | ((with_reducible show wpList _ _ _ (⟨some 7, .load 23 (.tmp 6), _, _, _, _⟩ :: _) _ _); go_must (refine wpList_exec rfl (vN px) (loadX (.tmp 6) rfl (w.heap.size) px py rfl (rwG HM2 0 rfl)) ?_)) | fail)
  refine (C0.out _).mono ?_
  rintro e3 x3 ⟨rfl, hb3⟩
  have HM3 := rwC HM2 hb3
  have HF3 := bT HF2 hb3
  clear hb3 HM2 HF2
  go_wp2_with (first | ((with_reducible show wpList _ _ _ (⟨some 12, .load 23 (.tmp 11), _, _, _, _⟩ :: _) _ _); go_must (refine wpList_exec rfl (vN py) (loadY (.tmp 11) rfl (w.heap.size) px py rfl (rwG HM3 0 rfl)) ?_)) | fail)
  refine (C1.out _).mono ?_
  rintro e4 x4 ⟨rfl, hb4⟩
  have HM4 := rwC HM3 hb4
  have HF4 := bT HF3 hb4
  clear hb4 HM3 HF3
  go_wp2_with fail
  refine RO.region_once (P := Try.prog) [.val (.pointer (some ⟨w.heap.size, 0, none⟩)), .val (vN px), .val (.pointer (some ⟨w.heap.size, 0, none⟩)), .val (vN px), .val (vN a), .val (.pointer (some ⟨w.heap.size, 32, none⟩)), .val (vN py), .val (.pointer (some ⟨w.heap.size, 32, none⟩)), .val (vN py), .val (vN b), .new (zbs 32) 23 (bcs (enc a)).toArray, .new (zbs 32) 23 (bcs (enc b)).toArray, .put 10, .put 11] 41 (by kernel_rfl) (by kernel_rfl) (by kernel_rfl) (by kernel_rfl) rfl rfl ⟨
    fun γ a_ w_ hb D => .inl (exec_field 35 (.tmp 1) 0 rfl (w.heap.size) 0 (D.2 1 rfl) (fld35_0 _)),
    fun γ a_ w_ hb D => .inl (loadX (.tmp 16) rfl (w.heap.size) px py (D.1 0 16 rfl rfl) ((rwG HM4 0 rfl).keep hb)),
    fun γ a_ w_ hb D => .inl (exec_field 35 (.tmp 1) 0 rfl (w.heap.size) 0 (D.2 1 rfl) (fld35_0 _)),
    fun γ a_ w_ hb D => .inl (loadX (.tmp 18) rfl (w.heap.size) px py (D.1 2 18 rfl rfl) ((rwG HM4 0 rfl).keep hb)),
    fun γ a_ w_ hb D => vcall 26 [.tmp 17, .tmp 19] #[23, 23] rfl [vN px, vN px] (hx2 (D.1 1 17 rfl rfl) (D.1 3 19 rfl rfl)) (CG26 _) C2.out,
    fun γ a_ w_ hb D => .inl (exec_field 35 (.tmp 1) 1 rfl (w.heap.size) 32 (D.2 1 rfl) (fld35_1 _)),
    fun γ a_ w_ hb D => .inl (loadY (.tmp 21) rfl (w.heap.size) px py (D.1 5 21 rfl rfl) ((rwG HM4 0 rfl).keep hb)),
    fun γ a_ w_ hb D => .inl (exec_field 35 (.tmp 1) 1 rfl (w.heap.size) 32 (D.2 1 rfl) (fld35_1 _)),
    fun γ a_ w_ hb D => .inl (loadY (.tmp 23) rfl (w.heap.size) px py (D.1 7 23 rfl rfl) ((rwG HM4 0 rfl).keep hb)),
    fun γ a_ w_ hb D => vcall 26 [.tmp 22, .tmp 24] #[23, 23] rfl [vN py, vN py] (hx2 (D.1 6 22 rfl rfl) (D.1 8 24 rfl rfl)) (CG26 _) C3.out,
    fun a_ w_ => exec_alloc 23 rfl (.agg (zbs 32)) zero23 w_,
    fun a_ w_ => exec_alloc 23 rfl (.agg (zbs 32)) zero23 w_,
    RO.put_ok rfl (fun γ a_ w_ D hz => fill 23 (.tmp 3) (.tmp 20) rfl (γ 10) (bcs (enc a)) (bcs (List.replicate 32 0)) (by rw [ce]; exact size23) (by rw [ce]; rfl) (bcs_one' _) (D.1 10 3 rfl rfl) (D.1 4 20 rfl rfl) hz),
    RO.put_ok rfl (fun γ a_ w_ D hz => fill 23 (.tmp 4) (.tmp 25) rfl (γ 11) (bcs (enc b)) (bcs (List.replicate 32 0)) (by rw [ce]; exact size23) (by rw [ce]; rfl) (bcs_one' _) (D.1 11 4 rfl rfl) (D.1 9 25 rfl rfl) hz),
    trivial⟩ ?_
  intro γ W5 F5
  simp only [RO.lexi, RO.vof, Act.put, List.setIfInBounds_toArray, List.set_cons_zero, List.set_cons_succ, List.getElem?_cons_zero, List.getElem?_cons_succ, List.take_succ_cons, List.take_zero]
  have HG5_10 : Hid (w.heap.size ≤ γ 10) := Lib.hid (Nat.le_trans HF4.out.size (F5.row 10 _ _ _ rfl).1)
  have HG5_11 : Hid (w.heap.size ≤ γ 11) := Lib.hid (Nat.le_trans HF4.out.size (F5.row 11 _ _ _ rfl).1)
  have HM5 := rwD (rwD (rwC HM4 F5.bel) (cbS (cs := bcs (enc a)) (F5.row 10 _ _ _ rfl).2)) (cbS (cs := bcs (enc b)) (F5.row 11 _ _ _ rfl).2)
  have HF5 := bT HF4 F5.bel
  clear F5 HM4 HF4
  generalize γ 10 = ga at *
  generalize γ 11 = gb at *
  clear γ
  go_wp2_with fail
  refine RO.region_once (P := Try.prog) [.val (vN c), .val (vN b), .val (vN a), .val (vN s), .val (vN 1), .val (vN t), .val (vN l), .new (zbs 32) 23 (bcs (enc l)).toArray, .put 7] 41 (by kernel_rfl) (by kernel_rfl) (by kernel_rfl) (by kernel_rfl) rfl rfl ⟨
    fun γ a_ w_ hb D => vcall 18 [.const (.int .u64 121666)] #[24] rfl [.int .u64 121666] (hx1 rfl) (CG18 _) C4.out,
    fun γ a_ w_ hb D => .inl (loadN (.tmp 4) rfl (gb) b (D.2 4 rfl) ((rwG HM5 0 rfl).keep hb)),
    fun γ a_ w_ hb D => .inl (loadN (.tmp 3) rfl (ga) a (D.2 3 rfl) ((rwG HM5 1 rfl).keep hb)),
    fun γ a_ w_ hb D => vcall 22 [.tmp 27, .tmp 28] #[23, 23] rfl [vN b, vN a] (hx2 (D.1 1 27 rfl rfl) (D.1 2 28 rfl rfl)) (CG22 _) C5.out,
    fun γ a_ w_ hb D => vcall 18 [.const (.int .u64 1)] #[24] rfl [.int .u64 1] (hx1 rfl) (CG18 _) C6.out,
    fun γ a_ w_ hb D => vcall 22 [.tmp 29, .tmp 30] #[23, 23] rfl [vN s, vN 1] (hx2 (D.1 3 29 rfl rfl) (D.1 4 30 rfl rfl)) (CG22 _) C7.out,
    fun γ a_ w_ hb D => vcall 26 [.tmp 26, .tmp 31] #[23, 23] rfl [vN c, vN t] (hx2 (D.1 0 26 rfl rfl) (D.1 5 31 rfl rfl)) (CG26 _) C8.out,
    fun a_ w_ => exec_alloc 23 rfl (.agg (zbs 32)) zero23 w_,
    RO.put_ok rfl (fun γ a_ w_ D hz => fill 23 (.tmp 5) (.tmp 32) rfl (γ 7) (bcs (enc l)) (bcs (List.replicate 32 0)) (by rw [ce]; exact size23) (by rw [ce]; rfl) (bcs_one' _) (D.1 7 5 rfl rfl) (D.1 6 32 rfl rfl) hz),
    trivial⟩ ?_
  intro γ W6 F6
  simp only [RO.lexi, RO.vof, Act.put, List.setIfInBounds_toArray, List.set_cons_zero, List.set_cons_succ, List.getElem?_cons_zero, List.getElem?_cons_succ, List.take_succ_cons, List.take_zero]
  have HG6_7 : Hid (w.heap.size ≤ γ 7) := Lib.hid (Nat.le_trans HF5.out.size (F6.row 7 _ _ _ rfl).1)
  have HM6 := rwD (rwC HM5 F6.bel) (cbS (cs := bcs (enc l)) (F6.row 7 _ _ _ rfl).2)
  have HF6 := bT HF5 F6.bel
  clear F6 HM5 HF5
  generalize γ 7 = gl at *
  clear γ
  go_wp2_with fail
  refine RO.region_once (P := Try.prog) [.val (vN l), .val (vN e), .val (vN a), .val (vN b), .val (vN p), .val (vN q), .val (vN n), .val (.bool ((!z)))] 41 (by kernel_rfl) (by kernel_rfl) (by kernel_rfl) (by kernel_rfl) rfl rfl ⟨
    fun γ a_ w_ hb D => .inl (loadN (.tmp 5) rfl (gl) l (D.2 5 rfl) ((rwG HM6 0 rfl).keep hb)),
    fun γ a_ w_ hb D => vcall 18 [.const (.int .u64 121665)] #[24] rfl [.int .u64 121665] (hx1 rfl) (CG18 _) C9.out,
    fun γ a_ w_ hb D => .inl (loadN (.tmp 3) rfl (ga) a (D.2 3 rfl) ((rwG HM6 2 rfl).keep hb)),
    fun γ a_ w_ hb D => .inl (loadN (.tmp 4) rfl (gb) b (D.2 4 rfl) ((rwG HM6 1 rfl).keep hb)),
    fun γ a_ w_ hb D => vcall 26 [.tmp 35, .tmp 36] #[23, 23] rfl [vN a, vN b] (hx2 (D.1 2 35 rfl rfl) (D.1 3 36 rfl rfl)) (CG26 _) C10.out,
    fun γ a_ w_ hb D => vcall 26 [.tmp 34, .tmp 37] #[23, 23] rfl [vN e, vN p] (hx2 (D.1 1 34 rfl rfl) (D.1 4 37 rfl rfl)) (CG26 _) C11.out,
    fun γ a_ w_ hb D => vcall 24 [.tmp 38] #[23] rfl [vN q] (hx1 (D.1 5 38 rfl rfl)) (CG24 _) C12.out,
    fun γ a_ w_ hb D => .inl (exec_neq23 (m := l) (n := n) (.tmp 33) (.tmp 39) rfl (D.1 0 33 rfl rfl) (D.1 6 39 rfl rfl) (HE.out _)),
    trivial⟩ ?_
  intro γ W7 F7
  simp only [RO.lexi, RO.vof, Act.put, List.setIfInBounds_toArray, List.set_cons_zero, List.set_cons_succ, List.getElem?_cons_zero, List.getElem?_cons_succ, List.take_succ_cons, List.take_zero]
  have HM7 := rwC HM6 F7.bel
  have HF7 := bT HF6 F7.bel
  clear F7 HM6 HF6
  cases z
  · obtain rfl : (2 : Int) = res := HRES.out
    go_wp2
    go_ret
    exact ⟨rfl, HF7.out⟩
  · obtain rfl : (0 : Int) = res := HRES.out
    go_wp2
    go_ret
    exact ⟨rfl, HF7.out⟩

set_option maxHeartbeats 600000 in
theorem root_core (y a c s u e t d i q x : Nat) (ok : Bool) (w : World)
    (C0 : Hid (∀ w, Calls Try.prog 26 #[vN y, vN y] w (Gives (vN a) w)))
    (C1 : Hid (∀ w, Calls Try.prog 18 #[.int .u64 121666] w (Gives (vN c) w)))
    (C2 : Hid (∀ w, Calls Try.prog 18 #[.int .u64 1] w (Gives (vN 1) w)))
    (C3 : Hid (∀ w, Calls Try.prog 22 #[vN a, vN 1] w (Gives (vN s) w)))
    (C4 : Hid (∀ w, Calls Try.prog 26 #[vN c, vN s] w (Gives (vN u) w)))
    (C5 : Hid (∀ w, Calls Try.prog 18 #[.int .u64 121665] w (Gives (vN e) w)))
    (C6 : Hid (∀ w, Calls Try.prog 26 #[vN e, vN a] w (Gives (vN t) w)))
    (C7 : Hid (∀ w, Calls Try.prog 22 #[vN c, vN t] w (Gives (vN d) w)))
    (C8 : Hid (∀ w, Calls Try.prog 30 #[vN d] w (Gives (vN i) w)))
    (C9 : Hid (∀ w, Calls Try.prog 26 #[vN u, vN i] w (Gives (vN q) w)))
    (C10 : Hid (∀ w, Calls Try.prog 12 #[vN q] w (Gives (.tuple #[vN x, .bool ok]) w))) :
    Calls Try.prog 83 #[vN y] w (Gives (.tuple #[vN x, .bool ok]) w) := by
  have HM0 : Hid (Rws w []) := rw0 w
  have HF0 : Hid (Below w.heap.size w w) := Lib.hid (Below.refl _ _)
  go_enter Try.func83, Try.ntmps83
  go_wp2_with (first | ((with_reducible show wpList _ _ _ (⟨some 1, .box 23 (.tmp 0), _, _, _, _⟩ :: _) _ _); go_must (refine wpList_box_row rfl 23 (.tmp 0) rfl (bcs (enc y)).toArray rfl ?_; intro u1 a1 b1 c1; have HG2 : Hid (w.heap.size ≤ w.heap.size) := Lib.hid HF0.out.size; have HM2 := rwN HM0 (below_of_grownBy c1) (cbS (cs := bcs (enc y)) a1); have HF2 := bT HF0 (below_of_grownBy c1); clear a1 b1 c1 HM0 HF0)) | ((with_reducible show wpList _ _ _ (⟨some 2, .alloc 23, _, _, _, _⟩ :: _) _ _); go_must (refine wpList_alloc_row rfl 23 rfl (.agg (zbs 32)) zero23 ?_; intro u3 a3 b3 c3; have HG4 : Hid (w.heap.size ≤ u1.heap.size) := Lib.hid HF2.out.size; have HM4 := rwN HM2 (below_of_grownBy c3) (cbS (cs := bcs (List.replicate 32 0)) a3); have HF4 := bT HF2 (below_of_grownBy c3); clear a3 b3 c3 HM2 HF2)) | ((with_reducible show wpList _ _ _ (⟨some 7, .load 23 (.tmp 1), _, _, _, _⟩ :: _) _ _); go_must (refine wpList_exec rfl (vN y) (loadN (.tmp 1) rfl (w.heap.size) y rfl (rwG HM4 1 rfl)) ?_)) | ((with_reducible show wpList _ _ _ (⟨some 8, .load 23 (.tmp 1), _, _, _, _⟩ :: _) _ _); go_must (refine wpList_exec rfl (vN y) (loadN (.tmp 1) rfl (w.heap.size) y rfl (rwG HM4 1 rfl)) ?_)) | fail)
  generalize u1.heap.size = gr at *
  refine (C0.out _).mono ?_
  rintro e5 x5 ⟨rfl, hb5⟩
  have HM5 := rwC HM4 hb5
  have HF5 := bT HF4 hb5
  clear hb5 HM4 HF4
  go_wp2_with (first | ((with_reducible show wpList _ _ _ (⟨some 4, .alloc 23, _, _, _, _⟩ :: _) _ _); go_must (refine wpList_mk rfl 23 rfl (zbs 32) zero23 (.tmp 4) (.tmp 9) rfl (bcs (enc a)) rfl rfl rfl (by rw [ce]; exact size23) (Eq.symm (by rw [ce]; rfl)) (bcs_one' _) ?_; intro y6 a6 b6; have HG7 : Hid (w.heap.size ≤ x5.heap.size) := Lib.hid HF5.out.size; have HM7 := rwN HM5 b6 a6; have HF7 := bT HF5 b6; clear a6 b6 HM5 HF5)) | fail)
  generalize x5.heap.size = ga at *
  refine RO.region_once (P := Try.prog) [.val (vN c), .val (vN a), .val (vN 1), .val (vN s), .val (vN u), .new (zbs 32) 23 (bcs (enc u)).toArray, .put 5] 27 (by kernel_rfl) (by kernel_rfl) (by kernel_rfl) (by kernel_rfl) rfl rfl ⟨
    fun γ a_ w_ hb D => vcall 18 [.const (.int .u64 121666)] #[24] rfl [.int .u64 121666] (hx1 rfl) (CG18 _) C1.out,
    fun γ a_ w_ hb D => .inl (loadN (.tmp 4) rfl (ga) a (D.2 4 rfl) ((rwG HM7 0 rfl).keep hb)),
    fun γ a_ w_ hb D => vcall 18 [.const (.int .u64 1)] #[24] rfl [.int .u64 1] (hx1 rfl) (CG18 _) C2.out,
    fun γ a_ w_ hb D => vcall 22 [.tmp 11, .tmp 12] #[23, 23] rfl [vN a, vN 1] (hx2 (D.1 1 11 rfl rfl) (D.1 2 12 rfl rfl)) (CG22 _) C3.out,
    fun γ a_ w_ hb D => vcall 26 [.tmp 10, .tmp 13] #[23, 23] rfl [vN c, vN s] (hx2 (D.1 0 10 rfl rfl) (D.1 3 13 rfl rfl)) (CG26 _) C4.out,
    fun a_ w_ => exec_alloc 23 rfl (.agg (zbs 32)) zero23 w_,
    RO.put_ok rfl (fun γ a_ w_ D hz => fill 23 (.tmp 5) (.tmp 14) rfl (γ 5) (bcs (enc u)) (bcs (List.replicate 32 0)) (by rw [ce]; exact size23) (by rw [ce]; rfl) (bcs_one' _) (D.1 5 5 rfl rfl) (D.1 4 14 rfl rfl) hz),
    trivial⟩ ?_
  intro γ W8 F8
  simp only [RO.lexi, RO.vof, Act.put, List.setIfInBounds_toArray, List.set_cons_zero, List.set_cons_succ, List.getElem?_cons_zero, List.getElem?_cons_succ, List.take_succ_cons, List.take_zero]
  have HG8_5 : Hid (w.heap.size ≤ γ 5) := Lib.hid (Nat.le_trans HF7.out.size (F8.row 5 _ _ _ rfl).1)
  have HM8 := rwD (rwC HM7 F8.bel) (cbS (cs := bcs (enc u)) (F8.row 5 _ _ _ rfl).2)
  have HF8 := bT HF7 F8.bel
  clear F8 HM7 HF7
  generalize γ 5 = gu at *
  clear γ
  go_wp2_with fail
  refine RO.region_once (P := Try.prog) [.val (vN c), .val (vN e), .val (vN a), .val (vN t), .val (vN d), .new (zbs 32) 23 (bcs (enc d)).toArray, .put 5] 27 (by kernel_rfl) (by kernel_rfl) (by kernel_rfl) (by kernel_rfl) rfl rfl ⟨
    fun γ a_ w_ hb D => vcall 18 [.const (.int .u64 121666)] #[24] rfl [.int .u64 121666] (hx1 rfl) (CG18 _) C1.out,
    fun γ a_ w_ hb D => vcall 18 [.const (.int .u64 121665)] #[24] rfl [.int .u64 121665] (hx1 rfl) (CG18 _) C5.out,
    fun γ a_ w_ hb D => .inl (loadN (.tmp 4) rfl (ga) a (D.2 4 rfl) ((rwG HM8 1 rfl).keep hb)),
    fun γ a_ w_ hb D => vcall 26 [.tmp 16, .tmp 17] #[23, 23] rfl [vN e, vN a] (hx2 (D.1 1 16 rfl rfl) (D.1 2 17 rfl rfl)) (CG26 _) C6.out,
    fun γ a_ w_ hb D => vcall 22 [.tmp 15, .tmp 18] #[23, 23] rfl [vN c, vN t] (hx2 (D.1 0 15 rfl rfl) (D.1 3 18 rfl rfl)) (CG22 _) C7.out,
    fun a_ w_ => exec_alloc 23 rfl (.agg (zbs 32)) zero23 w_,
    RO.put_ok rfl (fun γ a_ w_ D hz => fill 23 (.tmp 6) (.tmp 19) rfl (γ 5) (bcs (enc d)) (bcs (List.replicate 32 0)) (by rw [ce]; exact size23) (by rw [ce]; rfl) (bcs_one' _) (D.1 5 6 rfl rfl) (D.1 4 19 rfl rfl) hz),
    trivial⟩ ?_
  intro γ W9 F9
  simp only [RO.lexi, RO.vof, Act.put, List.setIfInBounds_toArray, List.set_cons_zero, List.set_cons_succ, List.getElem?_cons_zero, List.getElem?_cons_succ, List.take_succ_cons, List.take_zero]
  have HG9_5 : Hid (w.heap.size ≤ γ 5) := Lib.hid (Nat.le_trans HF8.out.size (F9.row 5 _ _ _ rfl).1)
  have HM9 := rwD (rwC HM8 F9.bel) (cbS (cs := bcs (enc d)) (F9.row 5 _ _ _ rfl).2)
  have HF9 := bT HF8 F9.bel
  clear F9 HM8 HF8
  generalize γ 5 = gd at *
  clear γ
  go_wp2_with fail
  refine RO.region_out2 (P := Try.prog) [.val (vN u), .val (vN d), .val (vN i), .val (vN q), .val (.tuple #[vN x, .bool ok]), .val (vN x), .val (.bool ok)] 27 7 rfl (by kernel_rfl) (by kernel_rfl) (by kernel_rfl) (by kernel_rfl) rfl rfl ⟨
    fun γ a_ w_ hb D => .inl (loadN (.tmp 5) rfl (gu) u (D.2 5 rfl) ((rwG HM9 1 rfl).keep hb)),
    fun γ a_ w_ hb D => .inl (loadN (.tmp 6) rfl (gd) d (D.2 6 rfl) ((rwG HM9 0 rfl).keep hb)),
    fun γ a_ w_ hb D => vcall 30 [.tmp 21] #[23] rfl [vN d] (hx1 (D.1 1 21 rfl rfl)) (CG30 _) C8.out,
    fun γ a_ w_ hb D => vcall 26 [.tmp 20, .tmp 22] #[23, 23] rfl [vN u, vN i] (hx2 (D.1 0 20 rfl rfl) (D.1 2 22 rfl rfl)) (CG26 _) C9.out,
    fun γ a_ w_ hb D => vcall 12 [.tmp 23] #[23] rfl [vN q] (hx1 (D.1 3 23 rfl rfl)) (CG12 _) C10.out,
    fun γ a_ w_ hb D => .inl (exec_extract (.tmp 24) 0 rfl #[vN x, .bool ok] (D.1 4 24 rfl rfl) _ rfl),
    fun γ a_ w_ hb D => .inl (exec_extract (.tmp 24) 1 rfl #[vN x, .bool ok] (D.1 4 24 rfl rfl) _ rfl),
    trivial⟩ (by kernel_rfl) (by kernel_rfl) _ rfl rfl _ rfl (by kernel_rfl) ?_
  intro γ W10 F10
  simp only [RO.lexi, RO.vof, Act.put, List.setIfInBounds_toArray, List.set_cons_zero, List.set_cons_succ, List.getElem?_cons_zero, List.getElem?_cons_succ, List.take_succ_cons, List.take_zero]
  refine exec_putR (w0 := w) 23 (.tmp 2) (.tmp 25) rfl (gr) rfl (bcs (enc x)) (bcs (List.replicate 32 0)) rfl ((rwG HM9 3 rfl).keep F10.bel) (by rw [ce]; exact size23) (by rw [ce]; rfl) (bcs_one' _) (bT HF9 F10.bel).out HG4.out ?_
  intro y10 hc10 hb10
  have HC10 := Lib.hid hc10
  have HF10 := Lib.hid hb10
  clear hc10 hb10 F10 HM9 HF9
  refine ⟨_, exec_moveA (.tmp 26) rfl _ rfl, ?_⟩
  go_wp2_with fail
  obtain ⟨tr, htr⟩ := HC10.out
  exact bodyPost_ret (results_cell2 rfl _ _ (gr) tr (bcs (enc x)).toArray (0, 0) _ rfl htr under23 rfl (by rw [List.size_toArray, ce]; exact size23)) rfl ⟨rfl, HF10.out⟩

set_option maxHeartbeats 600000 in
theorem rBase_core (a b i y x : Nat) (ok : Bool) (w : World)
    (C0 : Hid (∀ w, Calls Try.prog 18 #[.int .u64 4] w (Gives (vN a) w)))
    (C1 : Hid (∀ w, Calls Try.prog 18 #[.int .u64 5] w (Gives (vN b) w)))
    (C2 : Hid (∀ w, Calls Try.prog 30 #[vN b] w (Gives (vN i) w)))
    (C3 : Hid (∀ w, Calls Try.prog 26 #[vN a, vN i] w (Gives (vN y) w)))
    (C4 : Hid (∀ w, Calls Try.prog 83 #[vN y] w (Gives (.tuple #[vN x, .bool ok]) w))) :
    Calls Try.prog 57 #[] w (Gives (vR [x, y]) w) := by
  have HM0 : Hid (Rws w []) := rw0 w
  have HF0 : Hid (Below w.heap.size w w) := Lib.hid (Below.refl _ _)
  go_enter Try.func57, Try.ntmps57
  go_wp2_with (first | ((with_reducible show wpList _ _ _ (⟨some 0, .alloc 35, _, _, _, _⟩ :: _) _ _); go_must (refine wpList_alloc_row rfl 35 rfl (.agg (zbs 64)) zero35 ?_; intro u1 a1 b1 c1; have HG2 : Hid (w.heap.size ≤ w.heap.size) := Lib.hid HF0.out.size; have HM2 := rwN HM0 (below_of_grownBy c1) (cbS (cs := bcs (List.replicate 64 0)) a1); have HF2 := bT HF0 (below_of_grownBy c1); clear a1 b1 c1 HM0 HF0)) | fail)
  refine (C0.out _).mono ?_
  rintro e3 x3 ⟨rfl, hb3⟩
  have HM3 := rwC HM2 hb3
  have HF3 := bT HF2 hb3
  clear hb3 HM2 HF2
  go_wp2_with fail
  refine (C1.out _).mono ?_
  rintro e4 x4 ⟨rfl, hb4⟩
  have HM4 := rwC HM3 hb4
  have HF4 := bT HF3 hb4
  clear hb4 HM3 HF3
  go_wp2_with fail
  refine (C2.out _).mono ?_
  rintro e5 x5 ⟨rfl, hb5⟩
  have HM5 := rwC HM4 hb5
  have HF5 := bT HF4 hb5
  clear hb5 HM4 HF4
  go_wp2_with fail
  refine (C3.out _).mono ?_
  rintro e6 x6 ⟨rfl, hb6⟩
  have HM6 := rwC HM5 hb6
  have HF6 := bT HF5 hb6
  clear hb6 HM5 HF5
  go_wp2_with (first | ((with_reducible show wpList _ _ _ (⟨some 1, .alloc 23, _, _, _, _⟩ :: _) _ _); go_must (refine wpList_mk rfl 23 rfl (zbs 32) zero23 (.tmp 1) (.tmp 7) rfl (bcs (enc y)) rfl rfl rfl (by rw [ce]; exact size23) (Eq.symm (by rw [ce]; rfl)) (bcs_one' _) ?_; intro y7 a7 b7; have HG8 : Hid (w.heap.size ≤ x6.heap.size) := Lib.hid HF6.out.size; have HM8 := rwN HM6 b7 a7; have HF8 := bT HF6 b7; clear a7 b7 HM6 HF6)) | ((with_reducible show wpList _ _ _ (⟨some 9, .load 23 (.tmp 1), _, _, _, _⟩ :: _) _ _); go_must (refine wpList_exec rfl (vN y) (loadN (.tmp 1) rfl (x6.heap.size) y rfl (rwG HM8 0 rfl)) ?_)) | fail)
  generalize x6.heap.size = gy at *
  refine (C4.out _).mono ?_
  rintro e9 x9 ⟨rfl, hb9⟩
  have HM9 := rwC HM8 hb9
  have HF9 := bT HF8 hb9
  clear hb9 HM8 HF8
  go_wp2_with (first | ((with_reducible show wpList _ _ _ (⟨some 2, .alloc 23, _, _, _, _⟩ :: _) _ _); go_must (refine wpList_mk rfl 23 rfl (zbs 32) zero23 (.tmp 2) (.tmp 11) rfl (bcs (enc x)) rfl rfl rfl (by rw [ce]; exact size23) (Eq.symm (by rw [ce]; rfl)) (bcs_one' _) ?_; intro y10 a10 b10; have HG11 : Hid (w.heap.size ≤ x9.heap.size) := Lib.hid HF9.out.size; have HM11 := rwN HM9 b10 a10; have HF11 := bT HF9 b10; clear a10 b10 HM9 HF9)) | ((with_reducible show wpList _ _ _ (⟨some 13, .load 23 (.tmp 2), _, _, _, _⟩ :: _) _ _); go_must (refine wpList_exec rfl (vN x) (loadN (.tmp 2) rfl (x9.heap.size) x rfl (rwG HM11 0 rfl)) ?_)) | ((with_reducible show wpList _ _ _ (⟨some 14, .load 23 (.tmp 1), _, _, _, _⟩ :: _) _ _); go_must (refine wpList_exec rfl (vN y) (loadN (.tmp 1) rfl (gy) y rfl (rwG HM11 1 rfl)) ?_)) | ((with_reducible show wpList _ _ _ (⟨some 15, .build 35 _, _, _, _, _⟩ :: _) _ _); go_must (refine wpList_exec rfl (vR [x, y]) (exec_build35 (.tmp 13) (.tmp 14) x y rfl rfl rfl) ?_)) | ((with_reducible show wpList _ _ _ (⟨none, .store 35 (.tmp 0) (.tmp 15), _, _, _, _⟩ :: _) _ _); go_must (refine wpList_put rfl 35 (.tmp 0) (.tmp 15) rfl (w.heap.size) rfl (bcs (encs [x, y])) (bcs (List.replicate 64 0)) rfl (rwG HM11 2 rfl) (by rw [cr]; exact size35) (by rw [cr]; rfl) (bcs_one' _) HF11.out HG2.out ?_; intro y12 hc12 hb12; have HC12 := Lib.hid hc12; have HF12 := Lib.hid hb12; clear hc12 hb12 HM11 HF11)) | fail)
  generalize x9.heap.size = gx at *
  obtain ⟨tr, htr⟩ := HC12.out
  exact bodyPost_ret (results_cell_row rfl _ _ (w.heap.size) tr (bcs (encs [x, y])).toArray _ _ rfl htr Try.underlying35 rfl (by rw [List.size_toArray, cr]; exact size35)) rfl ⟨rfl, HF12.out⟩
end Go.Proofs.Ytgdimnbdnepbgaa
/- The curve: Read. No statement is proved here. -/
namespace Go.Proofs.Ytgdimnbdnepbgaa
open Go.RowKit
set_option linter.unusedVariables false
set_option maxRecDepth 40000
set_option linter.unusedSimpArgs false

set_option maxHeartbeats 8000000 in
theorem Read_core (n y x m t u rx ry : Nat) (re : Int) (odd c ok z : Bool) (w : World)
    (HT : Hid (((enc n).getD 31 0).toNat = t)) (HO : Hid ((bits .and .u8 (t : Int) 128 != 0) = odd)) (HU : Hid (bits .andNot .u8 (t : Int) 128 = ((u : Nat) : Int))) (HU2 : Hid (u < 256)) (HS : Hid ((enc n).set 31 (UInt8.ofNat u) = enc y))
    (C1 : Hid (∀ w, Calls Try.prog 15 #[vN y] w (Gives (.bool c) w))) (C2 : Hid (∀ w, Calls Try.prog 78 #[vN y] w (Gives (.tuple #[vN x, .bool ok]) w))) (C3 : Hid (∀ w, Calls Try.prog 23 #[vN x] w (Gives (vN m) w)))
    (HE : Hid (∀ w, (Op.equalIn 10000 23 (vN x) (vN 0)).run Try.prog w = .ok z w))
    (HRES : Hid (if c && (ok && !(odd && z)) then (if odd then m else x) = rx ∧ y = ry ∧ (0 : Int) = re else 0 = rx ∧ 0 = ry ∧ (4 : Int) = re)) :
    Calls Try.prog 35 #[vN n] w (Gives (.tuple #[vR [rx, ry], .int .i64 re]) w) := by
  go_enter Try.func35, Try.ntmps35
  go_wp2_with (first | ((with_reducible show wpList _ _ _ (⟨some 1, .box 22 (.tmp 0), _, _, _, _⟩ :: _) _ _); go_must (refine wpList_box_row rfl 22 (.tmp 0) rfl (bcs (enc n)).toArray rfl ?_; intro a1 h1 z1 g1; have H1 := Lib.hid h1; have Z1 := Lib.hid z1; have G1 := Lib.hid g1; clear h1 z1 g1)) | ((with_reducible show wpList _ _ _ (⟨some 2, .alloc 35, _, _, _, _⟩ :: _) _ _); go_must (refine wpList_alloc_row rfl 35 rfl (.agg (zbs 64)) zero35 ?_; intro a2 h1 z1 g1; have HR : Hid (RAt a2 a1.heap.size [0, 0]) := Lib.hid (zrow (k := 2) h1); have HB : Hid (Below w.heap.size w a2) := Lib.hid ((below_of_grownBy G1.out).trans ((below_of_grownBy g1).mono (by have := Z1.out; omega))); have HI : Hid (a2.heap[w.heap.size]? = some (.cells (bcs (enc n)).toArray 22 (0, 0))) := Lib.hid ((g1.block _ (by have := Z1.out; omega) (by simp)).trans H1.out); have HGE : Hid (w.heap.size ≤ a1.heap.size) := Lib.hid (by have := Z1.out; omega); have HNE0 : Hid (w.heap.size ≠ a1.heap.size) := Lib.hid (by have := Z1.out; omega); have c0 : a2.cell? ⟨w.heap.size, 31, none⟩ = some (.int .u8 (((enc n).getD 31 0).toNat : Nat)) := (show BAt a2 w.heap.size (enc n) from ⟨enc_len n, 22, HI.out⟩).cell 31 (by omega); rw [HT.out] at c0; clear h1 z1 g1 H1 Z1 G1)) | ((with_reducible show wpList _ _ _ (⟨none, .store 5 (.tmp 15) (.tmp 14), _, _, _, _⟩ :: _) _ _); go_must (refine wpList_store_one rfl 5 (.tmp 15) (.tmp 14) rfl w.heap.size 31 rfl .u8 _ rfl 22 _ HI.out size5 (by simp only [List.size_toArray, bcs_enc_len]; omega) ?_; intro b9 hh hg hz; rw [HU.out, byte_val u HU2.out, bcs_put, HS.out] at hh; have RY_9 : Hid (RAt b9 w.heap.size [y]) := Lib.hid (NAt.row ⟨_, hh⟩); have RR_9 := Lib.hid (HR.out.grown hg (by have := HNE0.out; simp; omega)); have HB_9 : Hid (Below w.heap.size w b9) := Lib.hid (HB.out.grown hg HB.out.size (fun r hr => by injection hr with hr; omega)); have HGE00 : Hid (w.heap.size ≤ w.heap.size) := Lib.hid (Nat.le_refl _); clear hh hg hz HR HB HI c0)) | ((with_reducible show wpList _ _ _ (⟨_, .load 22 (.tmp 1), _, _, _, _⟩ :: _) _ _); go_must (refine wpList_exec rfl (vN y) (exec_load22 (.tmp 1) rfl (w.heap.size) 0 0 rfl [y] y rfl RY_9.out rfl) ?_)) | ((with_reducible show wpList _ _ _ (⟨some 5, .alloc 23, _, _, _, _⟩ :: _) _ _); go_must (refine wpList_alloc_row rfl 23 rfl (.agg (zbs 32)) zero23 ?_; intro u95 ha95 hza95 hga95; have HA95 := Lib.hid ha95; have HZA95 := Lib.hid hza95; have HGA95 := Lib.hid hga95; clear ha95 hza95 hga95)) | ((with_reducible show wpList _ _ _ (⟨none, .store 23 (.tmp 5) (.tmp 16), _, _, _, _⟩ :: _) _ _); go_must (refine wpList_storeF rfl (.tmp 5) (.tmp 16) rfl (b9.heap.size) 0 0 rfl [0] y rfl rfl (zrow (k := 1) HA95.out) (show 0 < 1 by omega) ?_; intro y95 hr95 hg95 hz95; have RY_95 := Lib.hid ((RY_9.out.grown HGA95.out (by simp)).grown hg95 (by have := RY_9.out.lt; simp; omega)); have RR_95 := Lib.hid ((RR_9.out.grown HGA95.out (by simp)).grown hg95 (by have := RR_9.out.lt; simp; omega)); have Ngy_95 : Hid (RAt y95 b9.heap.size [y]) := Lib.hid hr95; have HF_95 : Hid (Below w.heap.size w y95) := Lib.hid ((HB_9.out.grown HGA95.out HB_9.out.size (by simp)).grown hg95 (by have := HB_9.out.size; have := HZA95.out; omega) (fun r hr => by injection hr with hr; have := HB_9.out.size; omega)); have HNE95_1 : Hid (w.heap.size ≠ b9.heap.size) := Lib.hid (by have := RY_9.out.lt; omega); have HNE95_2 : Hid (a1.heap.size ≠ b9.heap.size) := Lib.hid (by have := RR_9.out.lt; omega); have HGE95 : Hid (w.heap.size ≤ b9.heap.size) := Lib.hid HB_9.out.size; clear hr95 hg95 hz95 HA95 HZA95 HGA95 RY_9 RR_9 HB_9)) | ((with_reducible show wpList _ _ _ (⟨_, .load 23 (.tmp 5), _, _, _, _⟩ :: _) _ _); go_must (refine wpList_exec rfl (vN y) (exec_loadF (.tmp 5) rfl (b9.heap.size) 0 0 rfl [y] y rfl Ngy_95.out rfl) ?_)) | fail)
  rw [HO.out]
  generalize b9.heap.size = gy at *
  generalize a1.heap.size = gr at *
  refine (C1.out _).mono ?_
  rintro e96 x96 ⟨rfl, hb96⟩
  have RY_96 := Lib.hid (RY_95.out.keep hb96)
  have RR_96 := Lib.hid (RR_95.out.keep hb96)
  have Ngy_96 := Lib.hid (Ngy_95.out.keep hb96)
  have HF_96 : Hid (Below w.heap.size w x96) := Lib.hid (HF_95.out.trans (hb96.mono HF_95.out.size))
  clear hb96 RY_95 RR_95 Ngy_95 HF_95
  cases c
  · go_wp2_with (first | ((with_reducible show wpList _ _ _ (⟨_, .build 35 #[], _, _, _, _⟩ :: _) _ _); go_must (refine wpList_exec rfl (vR [0, 0]) (exec_buildc rfl (by kernel_rfl)) ?_)) | ((with_reducible show wpList _ _ _ (⟨none, .store 35 (.tmp 2) (.tmp 20), _, _, _, _⟩ :: _) _ _); go_must (refine wpList_storeP rfl (.tmp 2) (.tmp 20) rfl (gr) [0, 0] 0 0 rfl rfl RR_96.out rfl ?_; intro y97 hr97 hg97 hz97; have RY_97 := Lib.hid (RY_96.out.grown hg97 (by have := HNE0.out; simp; omega)); have RR_97 : Hid (RAt y97 gr [0, 0]) := Lib.hid hr97; have Ngy_97 := Lib.hid (Ngy_96.out.grown hg97 (by have := HNE95_2.out; simp; omega)); have HF_97 : Hid (Below w.heap.size w y97) := Lib.hid (HF_96.out.grown hg97 HF_96.out.size (fun r hr => by injection hr with hr; have := HGE.out; omega)); clear hr97 hg97 hz97 RY_96 RR_96 Ngy_96 HF_96)) | fail)
    obtain ⟨tr, htr⟩ := RR_97.out
    obtain ⟨rfl, rfl, rfl⟩ : 0 = rx ∧ 0 = ry ∧ (4 : Int) = re := HRES.out
    exact bodyPost_ret (results_cell2 rfl _ _ gr tr (bcs (encs [0, 0])).toArray (0, 0) _ rfl htr Try.underlying35 rfl (by rw [List.size_toArray, bcs_len, encs_len]; exact size35)) rfl ⟨rfl, HF_97.out⟩
  · go_wp2_with (first | ((with_reducible show wpList _ _ _ (⟨_, .load 23 (.tmp 5), _, _, _, _⟩ :: _) _ _); go_must (refine wpList_exec rfl (vN y) (exec_loadF (.tmp 5) rfl (gy) 0 0 rfl [y] y rfl Ngy_96.out rfl) ?_)) | fail)
    refine (C2.out _).mono ?_
    rintro e98 x98 ⟨rfl, hb98⟩
    have RY_98 := Lib.hid (RY_96.out.keep hb98)
    have RR_98 := Lib.hid (RR_96.out.keep hb98)
    have Ngy_98 := Lib.hid (Ngy_96.out.keep hb98)
    have HF_98 : Hid (Below w.heap.size w x98) := Lib.hid (HF_96.out.trans (hb98.mono HF_96.out.size))
    clear hb98 RY_96 RR_96 Ngy_96 HF_96
    cases ok
    · go_wp2_with (first | ((with_reducible show wpList _ _ _ (⟨some 6, .alloc 23, _, _, _, _⟩ :: _) _ _); go_must (refine wpList_alloc_row rfl 23 rfl (.agg (zbs 32)) zero23 ?_; intro u99 ha99 hza99 hga99; have HA99 := Lib.hid ha99; have HZA99 := Lib.hid hza99; have HGA99 := Lib.hid hga99; clear ha99 hza99 hga99)) | ((with_reducible show wpList _ _ _ (⟨none, .store 23 (.tmp 6) (.tmp 24), _, _, _, _⟩ :: _) _ _); go_must (refine wpList_storeF rfl (.tmp 6) (.tmp 24) rfl (x98.heap.size) 0 0 rfl [0] x rfl rfl (zrow (k := 1) HA99.out) (show 0 < 1 by omega) ?_; intro y99 hr99 hg99 hz99; have RY_99 := Lib.hid ((RY_98.out.grown HGA99.out (by simp)).grown hg99 (by have := RY_98.out.lt; simp; omega)); have RR_99 := Lib.hid ((RR_98.out.grown HGA99.out (by simp)).grown hg99 (by have := RR_98.out.lt; simp; omega)); have Ngy_99 := Lib.hid ((Ngy_98.out.grown HGA99.out (by simp)).grown hg99 (by have := Ngy_98.out.lt; simp; omega)); have Ngx_99 : Hid (RAt y99 x98.heap.size [x]) := Lib.hid hr99; have HF_99 : Hid (Below w.heap.size w y99) := Lib.hid ((HF_98.out.grown HGA99.out HF_98.out.size (by simp)).grown hg99 (by have := HF_98.out.size; have := HZA99.out; omega) (fun r hr => by injection hr with hr; have := HF_98.out.size; omega)); have HNE99_3 : Hid (w.heap.size ≠ x98.heap.size) := Lib.hid (by have := RY_98.out.lt; omega); have HNE99_4 : Hid (gr ≠ x98.heap.size) := Lib.hid (by have := RR_98.out.lt; omega); have HNE99_5 : Hid (gy ≠ x98.heap.size) := Lib.hid (by have := Ngy_98.out.lt; omega); have HGE99 : Hid (w.heap.size ≤ x98.heap.size) := Lib.hid HF_98.out.size; clear hr99 hg99 hz99 HA99 HZA99 HGA99 RY_98 RR_98 Ngy_98 HF_98)) | ((with_reducible show wpList _ _ _ (⟨_, .build 35 #[], _, _, _, _⟩ :: _) _ _); go_must (refine wpList_exec rfl (vR [0, 0]) (exec_buildc rfl (by kernel_rfl)) ?_)) | ((with_reducible show wpList _ _ _ (⟨none, .store 35 (.tmp 2) (.tmp 36), _, _, _, _⟩ :: _) _ _); go_must (refine wpList_storeP rfl (.tmp 2) (.tmp 36) rfl (gr) [0, 0] 0 0 rfl rfl RR_99.out rfl ?_; intro y100 hr100 hg100 hz100; have RY_100 := Lib.hid (RY_99.out.grown hg100 (by have := HNE0.out; simp; omega)); have RR_100 : Hid (RAt y100 gr [0, 0]) := Lib.hid hr100; have Ngy_100 := Lib.hid (Ngy_99.out.grown hg100 (by have := HNE95_2.out; simp; omega)); have Ngx_100 := Lib.hid (Ngx_99.out.grown hg100 (by have := HNE99_4.out; simp; omega)); have HF_100 : Hid (Below w.heap.size w y100) := Lib.hid (HF_99.out.grown hg100 HF_99.out.size (fun r hr => by injection hr with hr; have := HGE.out; omega)); clear hr100 hg100 hz100 RY_99 RR_99 Ngy_99 Ngx_99 HF_99)) | fail)
      generalize x98.heap.size = gx at *
      obtain ⟨tr, htr⟩ := RR_100.out
      obtain ⟨rfl, rfl, rfl⟩ : 0 = rx ∧ 0 = ry ∧ (4 : Int) = re := HRES.out
      exact bodyPost_ret (results_cell2 rfl _ _ gr tr (bcs (encs [0, 0])).toArray (0, 0) _ rfl htr Try.underlying35 rfl (by rw [List.size_toArray, bcs_len, encs_len]; exact size35)) rfl ⟨rfl, HF_100.out⟩
    · cases odd
      · go_wp2_with (first | ((with_reducible show wpList _ _ _ (⟨some 6, .alloc 23, _, _, _, _⟩ :: _) _ _); go_must (refine wpList_alloc_row rfl 23 rfl (.agg (zbs 32)) zero23 ?_; intro u101 ha101 hza101 hga101; have HA101 := Lib.hid ha101; have HZA101 := Lib.hid hza101; have HGA101 := Lib.hid hga101; clear ha101 hza101 hga101)) | ((with_reducible show wpList _ _ _ (⟨none, .store 23 (.tmp 6) (.tmp 24), _, _, _, _⟩ :: _) _ _); go_must (refine wpList_storeF rfl (.tmp 6) (.tmp 24) rfl (x98.heap.size) 0 0 rfl [0] x rfl rfl (zrow (k := 1) HA101.out) (show 0 < 1 by omega) ?_; intro y101 hr101 hg101 hz101; have RY_101 := Lib.hid ((RY_98.out.grown HGA101.out (by simp)).grown hg101 (by have := RY_98.out.lt; simp; omega)); have RR_101 := Lib.hid ((RR_98.out.grown HGA101.out (by simp)).grown hg101 (by have := RR_98.out.lt; simp; omega)); have Ngy_101 := Lib.hid ((Ngy_98.out.grown HGA101.out (by simp)).grown hg101 (by have := Ngy_98.out.lt; simp; omega)); have Ngx_101 : Hid (RAt y101 x98.heap.size [x]) := Lib.hid hr101; have HF_101 : Hid (Below w.heap.size w y101) := Lib.hid ((HF_98.out.grown HGA101.out HF_98.out.size (by simp)).grown hg101 (by have := HF_98.out.size; have := HZA101.out; omega) (fun r hr => by injection hr with hr; have := HF_98.out.size; omega)); have HNE101_3 : Hid (w.heap.size ≠ x98.heap.size) := Lib.hid (by have := RY_98.out.lt; omega); have HNE101_4 : Hid (gr ≠ x98.heap.size) := Lib.hid (by have := RR_98.out.lt; omega); have HNE101_5 : Hid (gy ≠ x98.heap.size) := Lib.hid (by have := Ngy_98.out.lt; omega); have HGE101 : Hid (w.heap.size ≤ x98.heap.size) := Lib.hid HF_98.out.size; clear hr101 hg101 hz101 HA101 HZA101 HGA101 RY_98 RR_98 Ngy_98 HF_98)) | ((with_reducible show wpList _ _ _ (⟨some 40, .load 23 (.tmp 6), _, _, _, _⟩ :: _) _ _); go_must (refine wpList_exec rfl (vN x) (exec_loadF (.tmp 6) rfl (x98.heap.size) 0 0 rfl [x] x rfl Ngx_101.out rfl) ?_)) | ((with_reducible show wpList _ _ _ (⟨_, .load 23 (.tmp 5), _, _, _, _⟩ :: _) _ _); go_must (refine wpList_exec rfl (vN y) (exec_loadF (.tmp 5) rfl (gy) 0 0 rfl [y] y rfl Ngy_101.out rfl) ?_)) | ((with_reducible show wpList _ _ _ (⟨_, .build 35 _, _, _, _, _⟩ :: _) _ _); go_must (refine wpList_exec rfl (vR [x, y]) (exec_build35 (.tmp 40) (.tmp 41) x y rfl rfl rfl) ?_)) | ((with_reducible show wpList _ _ _ (⟨none, .store 35 (.tmp 2) (.tmp 42), _, _, _, _⟩ :: _) _ _); go_must (refine wpList_storeP rfl (.tmp 2) (.tmp 42) rfl (gr) [0, 0] x y rfl rfl RR_101.out rfl ?_; intro y102 hr102 hg102 hz102; have RY_102 := Lib.hid (RY_101.out.grown hg102 (by have := HNE0.out; simp; omega)); have RR_102 : Hid (RAt y102 gr [x, y]) := Lib.hid hr102; have Ngy_102 := Lib.hid (Ngy_101.out.grown hg102 (by have := HNE95_2.out; simp; omega)); have Ngx_102 := Lib.hid (Ngx_101.out.grown hg102 (by have := HNE101_4.out; simp; omega)); have HF_102 : Hid (Below w.heap.size w y102) := Lib.hid (HF_101.out.grown hg102 HF_101.out.size (fun r hr => by injection hr with hr; have := HGE.out; omega)); clear hr102 hg102 hz102 RY_101 RR_101 Ngy_101 Ngx_101 HF_101)) | fail)
        generalize x98.heap.size = gx at *
        obtain ⟨tr, htr⟩ := RR_102.out
        obtain ⟨rfl, rfl, rfl⟩ : x = rx ∧ y = ry ∧ (0 : Int) = re := HRES.out
        exact bodyPost_ret (results_cell2 rfl _ _ gr tr (bcs (encs [x, y])).toArray (0, 0) _ rfl htr Try.underlying35 rfl (by rw [List.size_toArray, bcs_len, encs_len]; exact size35)) rfl ⟨rfl, HF_102.out⟩
      · cases z
        · go_wp2_with (first | ((with_reducible show wpList _ _ _ (⟨some 6, .alloc 23, _, _, _, _⟩ :: _) _ _); go_must (refine wpList_alloc_row rfl 23 rfl (.agg (zbs 32)) zero23 ?_; intro u103 ha103 hza103 hga103; have HA103 := Lib.hid ha103; have HZA103 := Lib.hid hza103; have HGA103 := Lib.hid hga103; clear ha103 hza103 hga103)) | ((with_reducible show wpList _ _ _ (⟨none, .store 23 (.tmp 6) (.tmp 24), _, _, _, _⟩ :: _) _ _); go_must (refine wpList_storeF rfl (.tmp 6) (.tmp 24) rfl (x98.heap.size) 0 0 rfl [0] x rfl rfl (zrow (k := 1) HA103.out) (show 0 < 1 by omega) ?_; intro y103 hr103 hg103 hz103; have RY_103 := Lib.hid ((RY_98.out.grown HGA103.out (by simp)).grown hg103 (by have := RY_98.out.lt; simp; omega)); have RR_103 := Lib.hid ((RR_98.out.grown HGA103.out (by simp)).grown hg103 (by have := RR_98.out.lt; simp; omega)); have Ngy_103 := Lib.hid ((Ngy_98.out.grown HGA103.out (by simp)).grown hg103 (by have := Ngy_98.out.lt; simp; omega)); have Ngx_103 : Hid (RAt y103 x98.heap.size [x]) := Lib.hid hr103; have HF_103 : Hid (Below w.heap.size w y103) := Lib.hid ((HF_98.out.grown HGA103.out HF_98.out.size (by simp)).grown hg103 (by have := HF_98.out.size; have := HZA103.out; omega) (fun r hr => by injection hr with hr; have := HF_98.out.size; omega)); have HNE103_3 : Hid (w.heap.size ≠ x98.heap.size) := Lib.hid (by have := RY_98.out.lt; omega); have HNE103_4 : Hid (gr ≠ x98.heap.size) := Lib.hid (by have := RR_98.out.lt; omega); have HNE103_5 : Hid (gy ≠ x98.heap.size) := Lib.hid (by have := Ngy_98.out.lt; omega); have HGE103 : Hid (w.heap.size ≤ x98.heap.size) := Lib.hid HF_98.out.size; clear hr103 hg103 hz103 HA103 HZA103 HGA103 RY_98 RR_98 Ngy_98 HF_98)) | ((with_reducible show wpList _ _ _ (⟨_, .load 23 (.tmp 6), _, _, _, _⟩ :: _) _ _); go_must (refine wpList_exec rfl (vN x) (exec_loadF (.tmp 6) rfl (x98.heap.size) 0 0 rfl [x] x rfl Ngx_103.out rfl) ?_)) | ((with_reducible show wpList _ _ _ (⟨_, .build 23 #[], _, _, _, _⟩ :: _) _ _); go_must (refine wpList_exec rfl (vN 0) (exec_build0 rfl) ?_)) | ((with_reducible show wpList _ _ _ (⟨_, .binOp .eql 23 (.tmp 31) (.tmp 32) 23, _, _, _, _⟩ :: _) _ _); go_must (refine wpList_exec rfl (.bool false) (exec_eq23 (.tmp 31) (.tmp 32) rfl rfl rfl (HE.out _)) ?_)) | fail)
          generalize x98.heap.size = gx at *
          refine (C3.out _).mono ?_
          rintro e104 x104 ⟨rfl, hb104⟩
          have RY_104 := Lib.hid (RY_103.out.keep hb104)
          have RR_104 := Lib.hid (RR_103.out.keep hb104)
          have Ngy_104 := Lib.hid (Ngy_103.out.keep hb104)
          have Ngx_104 := Lib.hid (Ngx_103.out.keep hb104)
          have HF_104 : Hid (Below w.heap.size w x104) := Lib.hid (HF_103.out.trans (hb104.mono HF_103.out.size))
          clear hb104 RY_103 RR_103 Ngy_103 Ngx_103 HF_103
          go_wp2_with (first | ((with_reducible show wpList _ _ _ (⟨none, .store 23 (.tmp 6) (.tmp 39), _, _, _, _⟩ :: _) _ _); go_must (refine wpList_storeF rfl (.tmp 6) (.tmp 39) rfl (gx) 0 0 rfl [x] m rfl rfl Ngx_104.out (show 0 < 1 by omega) ?_; intro y105 hr105 hg105 hz105; have RY_105 := Lib.hid (RY_104.out.grown hg105 (by have := HNE103_3.out; simp; omega)); have RR_105 := Lib.hid (RR_104.out.grown hg105 (by have := HNE103_4.out; simp; omega)); have Ngy_105 := Lib.hid (Ngy_104.out.grown hg105 (by have := HNE103_5.out; simp; omega)); have Ngx_105 : Hid (RAt y105 gx [m]) := Lib.hid hr105; have HF_105 : Hid (Below w.heap.size w y105) := Lib.hid (HF_104.out.grown hg105 HF_104.out.size (fun r hr => by injection hr with hr; have := HGE103.out; omega)); clear hr105 hg105 hz105 RY_104 RR_104 Ngy_104 Ngx_104 HF_104)) | ((with_reducible show wpList _ _ _ (⟨_, .load 23 (.tmp 6), _, _, _, _⟩ :: _) _ _); go_must (refine wpList_exec rfl (vN m) (exec_loadF (.tmp 6) rfl (gx) 0 0 rfl [m] m rfl Ngx_105.out rfl) ?_)) | ((with_reducible show wpList _ _ _ (⟨_, .load 23 (.tmp 5), _, _, _, _⟩ :: _) _ _); go_must (refine wpList_exec rfl (vN y) (exec_loadF (.tmp 5) rfl (gy) 0 0 rfl [y] y rfl Ngy_105.out rfl) ?_)) | ((with_reducible show wpList _ _ _ (⟨_, .build 35 _, _, _, _, _⟩ :: _) _ _); go_must (refine wpList_exec rfl (vR [m, y]) (exec_build35 (.tmp 40) (.tmp 41) m y rfl rfl rfl) ?_)) | ((with_reducible show wpList _ _ _ (⟨none, .store 35 (.tmp 2) (.tmp 42), _, _, _, _⟩ :: _) _ _); go_must (refine wpList_storeP rfl (.tmp 2) (.tmp 42) rfl (gr) [0, 0] m y rfl rfl RR_105.out rfl ?_; intro y106 hr106 hg106 hz106; have RY_106 := Lib.hid (RY_105.out.grown hg106 (by have := HNE0.out; simp; omega)); have RR_106 : Hid (RAt y106 gr [m, y]) := Lib.hid hr106; have Ngy_106 := Lib.hid (Ngy_105.out.grown hg106 (by have := HNE95_2.out; simp; omega)); have Ngx_106 := Lib.hid (Ngx_105.out.grown hg106 (by have := HNE103_4.out; simp; omega)); have HF_106 : Hid (Below w.heap.size w y106) := Lib.hid (HF_105.out.grown hg106 HF_105.out.size (fun r hr => by injection hr with hr; have := HGE.out; omega)); clear hr106 hg106 hz106 RY_105 RR_105 Ngy_105 Ngx_105 HF_105)) | fail)
          obtain ⟨tr, htr⟩ := RR_106.out
          obtain ⟨rfl, rfl, rfl⟩ : m = rx ∧ y = ry ∧ (0 : Int) = re := HRES.out
          exact bodyPost_ret (results_cell2 rfl _ _ gr tr (bcs (encs [m, y])).toArray (0, 0) _ rfl htr Try.underlying35 rfl (by rw [List.size_toArray, bcs_len, encs_len]; exact size35)) rfl ⟨rfl, HF_106.out⟩
        · go_wp2_with (first | ((with_reducible show wpList _ _ _ (⟨some 6, .alloc 23, _, _, _, _⟩ :: _) _ _); go_must (refine wpList_alloc_row rfl 23 rfl (.agg (zbs 32)) zero23 ?_; intro u107 ha107 hza107 hga107; have HA107 := Lib.hid ha107; have HZA107 := Lib.hid hza107; have HGA107 := Lib.hid hga107; clear ha107 hza107 hga107)) | ((with_reducible show wpList _ _ _ (⟨none, .store 23 (.tmp 6) (.tmp 24), _, _, _, _⟩ :: _) _ _); go_must (refine wpList_storeF rfl (.tmp 6) (.tmp 24) rfl (x98.heap.size) 0 0 rfl [0] x rfl rfl (zrow (k := 1) HA107.out) (show 0 < 1 by omega) ?_; intro y107 hr107 hg107 hz107; have RY_107 := Lib.hid ((RY_98.out.grown HGA107.out (by simp)).grown hg107 (by have := RY_98.out.lt; simp; omega)); have RR_107 := Lib.hid ((RR_98.out.grown HGA107.out (by simp)).grown hg107 (by have := RR_98.out.lt; simp; omega)); have Ngy_107 := Lib.hid ((Ngy_98.out.grown HGA107.out (by simp)).grown hg107 (by have := Ngy_98.out.lt; simp; omega)); have Ngx_107 : Hid (RAt y107 x98.heap.size [x]) := Lib.hid hr107; have HF_107 : Hid (Below w.heap.size w y107) := Lib.hid ((HF_98.out.grown HGA107.out HF_98.out.size (by simp)).grown hg107 (by have := HF_98.out.size; have := HZA107.out; omega) (fun r hr => by injection hr with hr; have := HF_98.out.size; omega)); have HNE107_3 : Hid (w.heap.size ≠ x98.heap.size) := Lib.hid (by have := RY_98.out.lt; omega); have HNE107_4 : Hid (gr ≠ x98.heap.size) := Lib.hid (by have := RR_98.out.lt; omega); have HNE107_5 : Hid (gy ≠ x98.heap.size) := Lib.hid (by have := Ngy_98.out.lt; omega); have HGE107 : Hid (w.heap.size ≤ x98.heap.size) := Lib.hid HF_98.out.size; clear hr107 hg107 hz107 HA107 HZA107 HGA107 RY_98 RR_98 Ngy_98 HF_98)) | ((with_reducible show wpList _ _ _ (⟨some 31, .load 23 (.tmp 6), _, _, _, _⟩ :: _) _ _); go_must (refine wpList_exec rfl (vN x) (exec_loadF (.tmp 6) rfl (x98.heap.size) 0 0 rfl [x] x rfl Ngx_107.out rfl) ?_)) | ((with_reducible show wpList _ _ _ (⟨_, .build 23 #[], _, _, _, _⟩ :: _) _ _); go_must (refine wpList_exec rfl (vN 0) (exec_build0 rfl) ?_)) | ((with_reducible show wpList _ _ _ (⟨_, .binOp .eql 23 (.tmp 31) (.tmp 32) 23, _, _, _, _⟩ :: _) _ _); go_must (refine wpList_exec rfl (.bool true) (exec_eq23 (.tmp 31) (.tmp 32) rfl rfl rfl (HE.out _)) ?_)) | ((with_reducible show wpList _ _ _ (⟨_, .build 35 #[], _, _, _, _⟩ :: _) _ _); go_must (refine wpList_exec rfl (vR [0, 0]) (exec_buildc rfl (by kernel_rfl)) ?_)) | ((with_reducible show wpList _ _ _ (⟨none, .store 35 (.tmp 2) (.tmp 36), _, _, _, _⟩ :: _) _ _); go_must (refine wpList_storeP rfl (.tmp 2) (.tmp 36) rfl (gr) [0, 0] 0 0 rfl rfl RR_107.out rfl ?_; intro y108 hr108 hg108 hz108; have RY_108 := Lib.hid (RY_107.out.grown hg108 (by have := HNE0.out; simp; omega)); have RR_108 : Hid (RAt y108 gr [0, 0]) := Lib.hid hr108; have Ngy_108 := Lib.hid (Ngy_107.out.grown hg108 (by have := HNE95_2.out; simp; omega)); have Ngx_108 := Lib.hid (Ngx_107.out.grown hg108 (by have := HNE107_4.out; simp; omega)); have HF_108 : Hid (Below w.heap.size w y108) := Lib.hid (HF_107.out.grown hg108 HF_107.out.size (fun r hr => by injection hr with hr; have := HGE.out; omega)); clear hr108 hg108 hz108 RY_107 RR_107 Ngy_107 Ngx_107 HF_107)) | fail)
          generalize x98.heap.size = gx at *
          obtain ⟨tr, htr⟩ := RR_108.out
          obtain ⟨rfl, rfl, rfl⟩ : 0 = rx ∧ 0 = ry ∧ (4 : Int) = re := HRES.out
          exact bodyPost_ret (results_cell2 rfl _ _ gr tr (bcs (encs [0, 0])).toArray (0, 0) _ rfl htr Try.underlying35 rfl (by rw [List.size_toArray, bcs_len, encs_len]; exact size35)) rfl ⟨rfl, HF_108.out⟩
end Go.Proofs.Ytgdimnbdnepbgaa
/- The curve chapter's examples. No statement is proved here. -/
namespace Go.Proofs.Ytgdimnbdnepbgaa
open Go.RowKit
set_option linter.unusedVariables false
set_option maxRecDepth 40000
set_option linter.unusedSimpArgs false

def oddOne : Nat := 57896044618658097711785492504343953926634992332820282019728792003956564819969

set_option maxHeartbeats 4000000 in
theorem clives_core (bx by' n1 : Nat) (w : World) (C1 : Hid (∀ w, Calls Try.prog 42 #[] w (Gives (vR [bx, by']) w))) (C2 : Hid (∀ w, Calls Try.prog 36 #[vR [bx, by']] w (Gives (.tuple #[vN by', .int .i64 0]) w)))
    (C3 : Hid (∀ w, Calls Try.prog 35 #[vN n1] w (Gives (.tuple #[vR [0, 0], .int .i64 4]) w))) (HN : Hid (vN oddOne = vN n1))
    (H0 : Hid (((enc by').getD 0 0).toNat = 88)) (HB : Hid (∀ i, 1 ≤ i → i < 32 → ((enc by').getD i 0).toNat = 102)) :
    Calls Try.prog 38 #[] w (Gives (.bool true) w) := by
  go_enter Try.func38, Try.ntmps38
  go_wp2_with fail
  refine (C1.out _).mono ?_
  rintro e x1 ⟨rfl, hb⟩
  have HF1 : Hid (Below w.heap.size w x1) := hb
  clear hb
  go_wp2_with fail
  refine (C2.out _).mono ?_
  rintro e x2 ⟨rfl, hb⟩
  have HF2 := Lib.hid (HF1.out.trans (hb.mono HF1.out.size))
  clear hb HF1
  go_wp2_with (first | ((with_reducible show wpList _ _ _ (⟨some 1, .alloc 22, _, _, _, _⟩ :: _) _ _); go_must (refine wpList_alloc_row rfl 22 rfl (.agg (zbs 32)) zero22 ?_; intro a1 h1 z1 g1; have H1 := Lib.hid h1; have Z1 := Lib.hid z1; have G1 := Lib.hid g1; clear h1 z1 g1)) | ((with_reducible show wpList _ _ _ (⟨none, .store 22 (.tmp 1) (.tmp 9), _, _, _, _⟩ :: _) _ _); go_must (refine wpList_store_all rfl 22 (.tmp 1) (.tmp 9) rfl (x2.heap.size) rfl (bcs (enc by')).toArray rfl 22 _ H1.out (by rw [List.size_toArray, bcs_enc_len]; exact size22) (by rw [List.size_toArray, bcs_enc_len]; rfl) (bcs_one _) ?_; intro b5 hh hg hz; have HA : Hid (BAt b5 x2.heap.size (enc by')) := Lib.hid ⟨enc_len _, 22, hh⟩; have HF3 : Hid (Below w.heap.size w b5) := Lib.hid ((HF2.out.grown G1.out HF2.out.size (by simp)).grown hg (by have := HF2.out.size; have := Z1.out; omega) (fun r hr => by injection hr with hr; have := HF2.out.size; omega)); clear hh hg hz H1 Z1 G1 HF2)) | fail)
  generalize x2.heap.size = g at *
  go_loopw [3] (fun i wr => ∃ n : Nat, n ≤ 32 ∧ i = .int .i64 n ∧ 1 ≤ n ∧ BAt wr g (enc by') ∧ Below w.heap.size w wr) (fun i _ => 32 - (intOf i).toNat)
  case atStart => exact ⟨1, by omega, rfl, by omega, HA.out, HF3.out⟩
  case round =>
    obtain ⟨n, hn, rfl, hn1, hp, hq⟩ := hrel
    have HA := Lib.hid hp
    have HF := Lib.hid hq
    clear hp hq HF3
    by_cases hlt : n < 32
    · have hni : (n : Int) < 32 := by omega
      have cn := HA.out.cell n hlt
      rw [HB.out n hn1 hlt] at cn
      go_wp2_with fail
      exact ⟨⟨n + 1, by omega, by go_num, by omega, HA.out, HF.out⟩, by simp [intOf]; omega⟩
    · obtain rfl : n = 32 := by omega
      go_wp2_with (first | ((with_reducible show wpList _ _ _ (⟨_, .build 22 _, _, _, _, _⟩ :: _) _ _); go_must (refine wpList_exec rfl (vN n1) (exec_buildc rfl (by rw [← HN.out]; kernel_rfl)) ?_)) | fail)
      refine (C3.out _).mono ?_
      rintro e x3 ⟨rfl, hb⟩
      have HA2 : Hid (BAt x3 g (enc by')) := Lib.hid (HA.out.keep hb)
      have HF4 := Lib.hid (HF.out.trans (hb.mono HF.out.size))
      clear hb HA HF
      go_wp2_with (first | ((with_reducible show wpList _ _ _ (⟨some 4, .alloc 35, _, _, _, _⟩ :: _) _ _); go_must (refine wpList_alloc_row rfl 35 rfl (.agg (zbs 64)) zero35 ?_; intro a2 h1 z1 g1; have R1 : Hid (RAt a2 x3.heap.size [0, 0]) := Lib.hid (zrow (k := 2) h1); have HA3 := Lib.hid (HA2.out.grown g1 (by simp)); have Z2 := Lib.hid z1; have HF5 := Lib.hid (HF4.out.grown g1 HF4.out.size (by simp)); clear h1 z1 g1)) | ((with_reducible show wpList _ _ _ (⟨none, .store 35 (.tmp 4) (.tmp 22), _, _, _, _⟩ :: _) _ _); go_must (refine wpList_storeP rfl (.tmp 4) (.tmp 22) rfl (x3.heap.size) [0, 0] 0 0 rfl rfl R1.out rfl ?_; intro b6 hr hg hz; have HA4 := Lib.hid (HA3.out.grown hg (by obtain ⟨_, t, ht⟩ := HA2.out; have := (Array.getElem?_eq_some_iff.1 ht).1; simp; omega)); have HF6 : Hid (Below w.heap.size w b6) := Lib.hid (HF5.out.grown hg HF5.out.size (fun r hr => by injection hr with hr; have := HF4.out.size; omega)); have c0 := HA4.out.cell 0 (by omega); rw [H0.out] at c0; clear hr hg hz R1 HA3 Z2 HF5 HA2)) | fail)
      go_ret
      exact ⟨rfl, HF6.out⟩
end Go.Proofs.Ytgdimnbdnepbgaa
/- Points compared; the curve's functions over points. No statement is proved here. -/
namespace Go.Proofs.Ytgdimnbdnepbgaa
open Go.RowKit
set_option linter.unusedVariables false
set_option maxRecDepth 40000
set_option linter.unusedSimpArgs false

theorem keyLits35 (m n : Nat) : Try.prog.keyLits 3 35 (vR [m, n]).cells.toList = some ((encs [m, n]).map fun b => Lit.int .u8 (b.toNat : Int)) := by
  have hc : (vR [m, n]).cells.toList = bcs (encs [m, n]) := rfl
  have hlen : (bcs (encs [m, n])).length = 64 := by rw [bcs_len, encs_len]; rfl
  have h35 : Try.prog.cellsOf 35 = 64 := by kernel_rfl
  have h23 : Try.prog.cellsOf 23 = 32 := by kernel_rfl
  have e1 : ((bcs (encs [m, n])).drop 0).take 32 = bcs (enc m) := by
    rw [List.drop_zero, encs, bcs_append, List.take_append_of_le_length (by rw [bcs_enc_len]; omega), List.take_of_length_le (by rw [bcs_enc_len]; omega)]
  have e2 : ((bcs (encs [m, n])).drop 32).take 32 = bcs (enc n) := by
    rw [encs, bcs_append, List.drop_append_of_le_length (by rw [bcs_enc_len]; omega), List.drop_of_length_le (by rw [bcs_enc_len]; omega), List.nil_append, encs_one, List.take_of_length_le (by rw [bcs_enc_len]; omega)]
  have k1 := keyLits23 (enc m) (enc_len m)
  have k2 := keyLits23 (enc n) (enc_len n)
  rw [show (Value.agg (bcs (enc m)).toArray).cells.toList = bcs (enc m) from rfl] at k1
  rw [show (Value.agg (bcs (enc n)).toArray).cells.toList = bcs (enc n) from rfl] at k2
  rw [hc]
  unfold Program.keyLits
  rw [Try.underlying35]
  simp only [hlen, h35, h23]
  rw [if_pos ⟨trivial, by kernel_rfl⟩]
  simp only [List.mapM_cons, List.mapM_nil, h23, e1, e2, k1, k2]
  show some (List.flatten [_, _]) = _
  rw [encs, encs_one, List.map_append]
  simp
theorem eqP (m n m' n' : Nat) (hm : m < TT) (hn : n < TT) (hm' : m' < TT) (hn' : n' < TT) (w : World) : (Op.equalIn 10000 35 (vR [m, n]) (vR [m', n'])).run Try.prog w = .ok (decide (m = m' ∧ n = n')) w := by
  have hk : Try.prog.keyTypeAt 3 35 = true := by kernel_rfl
  have hf : ∀ m n, (vR [m, n]).formed Try.prog 35 = true := by
    intro m n
    have hc : Try.prog.cellsOf 35 = 64 := by kernel_rfl
    have hl : (bcs (encs [m, n])).length = 64 := by rw [bcs_len, encs_len]; rfl
    simp [Value.formed, vR, hc, hl]
  obtain ⟨r, hr, hiff⟩ := run_equalIn_deep (P := Try.prog) 9997 3 35 hk w 3 3 _ _ _ _ (hf m n) (hf m' n') (keyLits35 m n) (keyLits35 m' n')
  rw [hr]
  congr 1
  have hl : encs [m, n] = encs [m', n'] ↔ m = m' ∧ n = n' := by
    constructor
    · intro h
      have h2 := List.append_inj h (by rw [enc_len, enc_len])
      refine ⟨enc_inj hm hm' h2.1, enc_inj hn hn' ?_⟩
      have h3 := h2.2
      rw [encs_one, encs_one] at h3
      exact h3
    · rintro ⟨rfl, rfl⟩; rfl
  by_cases h : m = m' ∧ n = n'
  · rw [decide_eq_true h]
    exact hiff.2 (by rw [hl.2 h])
  · rw [decide_eq_false h]
    cases r
    · rfl
    · exact absurd (hl.1 (lits_inj _ _ (hiff.1 rfl))) h
/-- A point's value. -/
def vPt (p : EC.Pt) : Value := vR [p.1.1.val, p.1.2.val]
noncomputable instance : DecidableEq EC.Pt := fun a b => Classical.propDecidable _
theorem pEq (p q : EC.Pt) (w : World) : (Op.equalIn 10000 35 (vPt p) (vPt q)).run Try.prog w = .ok (decide (p = q)) w := by
  unfold vPt
  rw [eqP _ _ _ _ (fT _) (fT _) (fT _) (fT _) w]
  congr 1
  rw [Bool.eq_iff_iff, decide_eq_true_eq, decide_eq_true_eq]
  constructor
  · rintro ⟨h1, h2⟩
    exact Subtype.ext (Prod.ext (Fin.ext h1) (Fin.ext h2))
  · rintro rfl
    exact ⟨rfl, rfl⟩
/-- The residue of any number. -/
def fO (n : Nat) : Fin PP := Fin.ofNat PP n
theorem fO_val (n : Nat) : (fO n).val = n % PP := rfl
theorem fO_of (a : Fin PP) : fO a.val = a := Fin.ext (Nat.mod_eq_of_lt a.isLt)
theorem fO_lt {n : Nat} (h : n < PP) : (fO n).val = n := Nat.mod_eq_of_lt h
def onB (X Y : Nat) : Bool := decide (fO Y * fO Y - fO X * fO X = 1 + dF * (fO X * fO X * (fO Y * fO Y)))
theorem rawMul (a b : Nat) (ha : a < TT) (hb : b < TT) (w : World) : Calls Try.prog 25 #[vN a, vN b] w (Gives (vN (fO a * fO b).val) w) :=
  gives_N (by rw [Fin.val_mul, fO_val, fO_val, ← Nat.mul_mod]) (Mul_any a b ha hb w)
theorem onCurve_any (X Y : Nat) (hX : X < TT) (hY : Y < TT) (w : World) : Calls Try.prog 79 #[vR [X, Y]] w (Gives (.bool (onB X Y)) w) :=
  onCurve_core X Y _ _ _ _ _ _ _ _ w (Lib.hid (rawMul X X hX hX)) (Lib.hid (rawMul Y Y hY hY)) (Lib.hid (fSub _ _)) (Lib.hid fun w => Of_any 1 (by omega) w) (Lib.hid fD) (Lib.hid (fMul _ _)) (Lib.hid (fMul _ _)) (Lib.hid fun w => by have h := fAdd 1 (dF * (fO X * fO X * (fO Y * fO Y))) w; rw [v1] at h; exact h) (Lib.hid (fEq _ _))
/-- What Check tells. -/
def chk (X Y : Nat) : Int := if decide (X = X % PP) && (decide (Y = Y % PP) && onB X Y) then 0 else 2
theorem Check_any (X Y : Nat) (hX : X < TT) (hY : Y < TT) (w : World) : Calls Try.prog 40 #[vR [X, Y]] w (Gives (.int .i64 (chk X Y)) w) :=
  Check_core X Y _ _ _ _ w (Lib.hid rfl) (Lib.hid (Canon_any X hX)) (Lib.hid (Canon_any Y hY)) (Lib.hid (onCurve_any X Y hX hY))
theorem chk_two (X Y : Nat) : chk X Y = 0 ∨ chk X Y = 2 := by
  unfold chk
  split
  · exact .inl rfl
  · exact .inr rfl
theorem chk_zero (X Y : Nat) (h : chk X Y = 0) : ∃ p : EC.Pt, vR [X, Y] = vPt p ∧ p.1.1.val = X ∧ p.1.2.val = Y := by
  unfold chk at h
  by_cases hc : (decide (X = X % PP) && (decide (Y = Y % PP) && onB X Y)) = true
  · simp only [Bool.and_eq_true, decide_eq_true_eq] at hc
    obtain ⟨h1, h2, h3⟩ := hc
    unfold onB at h3
    rw [decide_eq_true_eq] at h3
    have k1 : (fO X).val = X := by rw [fO_val, ← h1]
    have k2 : (fO Y).val = Y := by rw [fO_val, ← h2]
    exact ⟨⟨(fO X, fO Y), h3⟩, by unfold vPt; rw [k1, k2], k1, k2⟩
  · rw [if_neg hc] at h
    exact absurd h (by decide)
theorem chk_pt (p : EC.Pt) : chk p.1.1.val p.1.2.val = 0 := by
  unfold chk
  rw [if_pos]
  have h := p.2
  unfold Ed.On at h
  rw [Nat.mod_eq_of_lt p.1.1.isLt, Nat.mod_eq_of_lt p.1.2.isLt, decide_eq_true rfl, decide_eq_true rfl]
  unfold onB
  rw [fO_of, fO_of]
  simp only [Bool.true_and, decide_eq_true_eq]
  exact h
theorem pCheck (p : EC.Pt) (w : World) : Calls Try.prog 40 #[vPt p] w (Gives (.int .i64 0) w) := by
  have h := Check_any _ _ (fT p.1.1) (fT p.1.2) w
  rw [chk_pt] at h
  exact h
theorem pZero (w : World) : Calls Try.prog 39 #[] w (Gives (vPt EC.zero) w) := gives_V (by unfold vPt Ed.zero; rw [v1]; rfl) (Zero_any w)
/-- A point with Z 1. -/
def X4.of (p : EC.Pt) : X4 := ⟨p.1.1, p.1.2, 1, p.1.1 * p.1.2⟩
theorem F_mul_one (a : Fin PP) : a * 1 = a := by grind
theorem X4.of_is (p : EC.Pt) : (X4.of p).Is p.1.1 p.1.2 := ⟨one_ne, (F_mul_one _).symm, (F_mul_one _).symm, (F_mul_one _).symm⟩
theorem of_l (p : EC.Pt) : (X4.of p).l = [p.1.1.val, p.1.2.val, 1, (p.1.1 * p.1.2).val] := by unfold X4.l X4.of; simp only [v1]
theorem pAdd (p q : EC.Pt) (w : World) : Calls Try.prog 44 #[vPt p, vPt q] w (Gives (vPt (EC.add p q)) w) := by
  have hs := ((X4.of_is p).sum (X4.of_is q) p.2 q.2).point
  have h := PAdd_core p.1.1.val p.1.2.val q.1.1.val q.1.2.val (p.1.1 * p.1.2).val (q.1.1 * q.1.2).val _ _ _ _ _ _ w (Lib.hid (pCheck p)) (Lib.hid (pCheck q))
    (Lib.hid fun w g g1 h0 h1 n1 => eread_any p.1.1 p.1.2 0 0 0 0 w g g1 h0 h1 n1) (Lib.hid fun w g g1 h0 h1 n1 => eread_any q.1.1 q.1.2 0 0 0 0 w g g1 h0 h1 n1)
    (Lib.hid fun w g g1 h0 h1 => eadd_any (X4.of p) (X4.of q) _ _ _ _ w g g g1 h0 (by rw [of_l]; exact h0) (by rw [of_l]; exact h1)) (Lib.hid fun w g h => epoint_any ((X4.of p).sum (X4.of q)) w g h)
  rw [hs.1, hs.2] at h
  exact h
theorem pNeg (p : EC.Pt) (w : World) : Calls Try.prog 51 #[vPt p] w (Gives (vPt (EC.neg p)) w) :=
  PNeg_core p.1.1.val p.1.2.val _ w (Lib.hid (pCheck p)) (Lib.hid (fNeg p.1.1))
end Go.Proofs.Ytgdimnbdnepbgaa
/- Points in extended coordinates: double. No statement is proved here. -/
namespace Go.Proofs.Ytgdimnbdnepbgaa
open Go.RowKit
set_option linter.unusedVariables false
set_option maxRecDepth 40000
set_option linter.unusedSimpArgs false

set_option maxHeartbeats 1000000 in
theorem edouble_core (g gp r0 r1 r2 r3 x1 y1 z1 t1 xx yy one xy x y ox two oy X Y Z T : Nat) (w : World)
    (C0 : Hid (∀ w, Calls Try.prog 25 #[vN x1, vN x1] w (Gives (vN xx) w)))
    (C1 : Hid (∀ w, Calls Try.prog 25 #[vN y1, vN y1] w (Gives (vN yy) w)))
    (C2 : Hid (∀ w, Calls Try.prog 25 #[vN z1, vN z1] w (Gives (vN one) w)))
    (C3 : Hid (∀ w, Calls Try.prog 25 #[vN x1, vN y1] w (Gives (vN xy) w)))
    (C4 : Hid (∀ w, Calls Try.prog 19 #[vN xy, vN xy] w (Gives (vN x) w)))
    (C5 : Hid (∀ w, Calls Try.prog 19 #[vN yy, vN xx] w (Gives (vN y) w)))
    (C6 : Hid (∀ w, Calls Try.prog 21 #[vN yy, vN xx] w (Gives (vN ox) w)))
    (C7 : Hid (∀ w, Calls Try.prog 19 #[vN one, vN one] w (Gives (vN two) w)))
    (C8 : Hid (∀ w, Calls Try.prog 21 #[vN two, vN ox] w (Gives (vN oy) w)))
    (HD : Hid (∀ (w : World) (g1 g2 g3 g4 : Nat), RAt w g [r0, r1, r2, r3] → RAt w g1 [x] → RAt w g2 [ox] → RAt w g3 [y] → RAt w g4 [oy] → g ≠ g1 → g ≠ g2 → g ≠ g3 → g ≠ g4 → Calls Try.prog 100 #[.pointer (some ⟨g, 0, none⟩), .pointer (some ⟨g1, 0, none⟩), .pointer (some ⟨g2, 0, none⟩), .pointer (some ⟨g3, 0, none⟩), .pointer (some ⟨g4, 0, none⟩)] w (SetsR g [X, Y, Z, T] w)))
    (RG_0 : Hid (RAt w g [r0, r1, r2, r3])) (RX_0 : Hid (RAt w gp [x1, y1, z1, t1])) :
    Calls Try.prog 102 #[.pointer (some ⟨g, 0, none⟩), .pointer (some ⟨gp, 0, none⟩)] w (SetsR g [X, Y, Z, T] w) := by
  have HM0 := rwD (rwD (rw0 w) (show CAt w g (bcs (encs [r0, r1, r2, r3])) from RG_0.out)) (show CAt w gp (bcs (encs [x1, y1, z1, t1])) from RX_0.out)
  have HF0 : Hid (Below w.heap.size w w) := Lib.hid (Below.refl _ _)
  go_enter Try.func102, Try.ntmps102
  go_wp2_with fail
  refine RO.region_once (P := Try.prog) [.val (.pointer (some ⟨gp, 0, none⟩)), .val (.pointer (some ⟨gp, 0, none⟩)), .val (.pointer (some ⟨gp, 0, none⟩)), .val (vN x1), .val (.pointer (some ⟨gp, 0, none⟩)), .val (.pointer (some ⟨gp, 0, none⟩)), .val (.pointer (some ⟨gp, 0, none⟩)), .val (vN x1), .val (vN xx), .val (.pointer (some ⟨gp, 0, none⟩)), .val (.pointer (some ⟨gp, 0, none⟩)), .val (.pointer (some ⟨gp, 32, none⟩)), .val (vN y1), .val (.pointer (some ⟨gp, 0, none⟩)), .val (.pointer (some ⟨gp, 0, none⟩)), .val (.pointer (some ⟨gp, 32, none⟩)), .val (vN y1), .val (vN yy), .new (zbs 32) 23 (bcs (enc xx)).toArray, .new (zbs 32) 23 (bcs (enc yy)).toArray, .put 18, .put 19] 63 (by kernel_rfl) (by kernel_rfl) (by kernel_rfl) (by kernel_rfl) rfl rfl ⟨
    fun γ a_ w_ hb D => .inl (exec_move (.tmp 1) rfl _ (D.2 1 rfl)),
    fun γ a_ w_ hb D => .inl (exec_nil (.tmp 11) rfl _ (D.1 0 11 rfl rfl)),
    fun γ a_ w_ hb D => .inl (exec_field 76 (.tmp 12) 0 rfl (gp) 0 (D.1 1 12 rfl rfl) (fld76_0 _)),
    fun γ a_ w_ hb D => .inl (exec_loadF (.tmp 13) rfl (gp) 0 0 rfl [x1, y1, z1, t1] x1 (D.1 2 13 rfl rfl) ((rwG HM0 0 rfl).keep hb) rfl),
    fun γ a_ w_ hb D => .inl (exec_move (.tmp 1) rfl _ (D.2 1 rfl)),
    fun γ a_ w_ hb D => .inl (exec_nil (.tmp 15) rfl _ (D.1 4 15 rfl rfl)),
    fun γ a_ w_ hb D => .inl (exec_field 76 (.tmp 16) 0 rfl (gp) 0 (D.1 5 16 rfl rfl) (fld76_0 _)),
    fun γ a_ w_ hb D => .inl (exec_loadF (.tmp 17) rfl (gp) 0 0 rfl [x1, y1, z1, t1] x1 (D.1 6 17 rfl rfl) ((rwG HM0 0 rfl).keep hb) rfl),
    fun γ a_ w_ hb D => vcall 25 [.tmp 14, .tmp 18] #[23, 23] rfl [vN x1, vN x1] (hx2 (D.1 3 14 rfl rfl) (D.1 7 18 rfl rfl)) (CG25 _) C0.out,
    fun γ a_ w_ hb D => .inl (exec_move (.tmp 1) rfl _ (D.2 1 rfl)),
    fun γ a_ w_ hb D => .inl (exec_nil (.tmp 20) rfl _ (D.1 9 20 rfl rfl)),
    fun γ a_ w_ hb D => .inl (exec_field 76 (.tmp 21) 1 rfl (gp) 32 (D.1 10 21 rfl rfl) (fld76_1 _)),
    fun γ a_ w_ hb D => .inl (exec_loadF (.tmp 22) rfl (gp) 1 32 rfl [x1, y1, z1, t1] y1 (D.1 11 22 rfl rfl) ((rwG HM0 0 rfl).keep hb) rfl),
    fun γ a_ w_ hb D => .inl (exec_move (.tmp 1) rfl _ (D.2 1 rfl)),
    fun γ a_ w_ hb D => .inl (exec_nil (.tmp 24) rfl _ (D.1 13 24 rfl rfl)),
    fun γ a_ w_ hb D => .inl (exec_field 76 (.tmp 25) 1 rfl (gp) 32 (D.1 14 25 rfl rfl) (fld76_1 _)),
    fun γ a_ w_ hb D => .inl (exec_loadF (.tmp 26) rfl (gp) 1 32 rfl [x1, y1, z1, t1] y1 (D.1 15 26 rfl rfl) ((rwG HM0 0 rfl).keep hb) rfl),
    fun γ a_ w_ hb D => vcall 25 [.tmp 23, .tmp 27] #[23, 23] rfl [vN y1, vN y1] (hx2 (D.1 12 23 rfl rfl) (D.1 16 27 rfl rfl)) (CG25 _) C1.out,
    fun a_ w_ => exec_alloc 23 rfl (.agg (zbs 32)) zero23 w_,
    fun a_ w_ => exec_alloc 23 rfl (.agg (zbs 32)) zero23 w_,
    RO.put_ok rfl (fun γ a_ w_ D hz => fill 23 (.tmp 4) (.tmp 19) rfl (γ 18) (bcs (enc xx)) (bcs (List.replicate 32 0)) (by rw [ce]; exact size23) (by rw [ce]; rfl) (bcs_one' _) (D.1 18 4 rfl rfl) (D.1 8 19 rfl rfl) hz),
    RO.put_ok rfl (fun γ a_ w_ D hz => fill 23 (.tmp 5) (.tmp 28) rfl (γ 19) (bcs (enc yy)) (bcs (List.replicate 32 0)) (by rw [ce]; exact size23) (by rw [ce]; rfl) (bcs_one' _) (D.1 19 5 rfl rfl) (D.1 17 28 rfl rfl) hz),
    trivial⟩ ?_
  intro γ W1 F1
  simp only [RO.lexi, RO.vof, Act.put, List.setIfInBounds_toArray, List.set_cons_zero, List.set_cons_succ, List.getElem?_cons_zero, List.getElem?_cons_succ, List.take_succ_cons, List.take_zero]
  have HG1_18 : Hid (w.heap.size ≤ γ 18) := Lib.hid (Nat.le_trans HF0.out.size (F1.row 18 _ _ _ rfl).1)
  have HG1_19 : Hid (w.heap.size ≤ γ 19) := Lib.hid (Nat.le_trans HF0.out.size (F1.row 19 _ _ _ rfl).1)
  have HM1 := rwD (rwD (rwC HM0 F1.bel) (cbS (cs := bcs (enc xx)) (F1.row 18 _ _ _ rfl).2)) (cbS (cs := bcs (enc yy)) (F1.row 19 _ _ _ rfl).2)
  have HF1 := bT HF0 F1.bel
  clear F1 HM0 HF0
  generalize γ 18 = g4 at *
  generalize γ 19 = g5 at *
  clear γ
  go_wp2_with fail
  refine RO.region_once (P := Try.prog) [.val (.pointer (some ⟨gp, 0, none⟩)), .val (.pointer (some ⟨gp, 0, none⟩)), .val (.pointer (some ⟨gp, 64, none⟩)), .val (vN z1), .val (.pointer (some ⟨gp, 0, none⟩)), .val (.pointer (some ⟨gp, 0, none⟩)), .val (.pointer (some ⟨gp, 64, none⟩)), .val (vN z1), .val (vN one), .val (.pointer (some ⟨gp, 0, none⟩)), .val (.pointer (some ⟨gp, 0, none⟩)), .val (.pointer (some ⟨gp, 0, none⟩)), .val (vN x1), .val (.pointer (some ⟨gp, 0, none⟩)), .val (.pointer (some ⟨gp, 0, none⟩)), .val (.pointer (some ⟨gp, 32, none⟩)), .val (vN y1), .val (vN xy), .new (zbs 32) 23 (bcs (enc one)).toArray, .new (zbs 32) 23 (bcs (enc xy)).toArray, .put 18, .put 19] 63 (by kernel_rfl) (by kernel_rfl) (by kernel_rfl) (by kernel_rfl) rfl rfl ⟨
    fun γ a_ w_ hb D => .inl (exec_move (.tmp 1) rfl _ (D.2 1 rfl)),
    fun γ a_ w_ hb D => .inl (exec_nil (.tmp 29) rfl _ (D.1 0 29 rfl rfl)),
    fun γ a_ w_ hb D => .inl (exec_field 76 (.tmp 30) 2 rfl (gp) 64 (D.1 1 30 rfl rfl) (fld76_2 _)),
    fun γ a_ w_ hb D => .inl (exec_loadF (.tmp 31) rfl (gp) 2 64 rfl [x1, y1, z1, t1] z1 (D.1 2 31 rfl rfl) ((rwG HM1 2 rfl).keep hb) rfl),
    fun γ a_ w_ hb D => .inl (exec_move (.tmp 1) rfl _ (D.2 1 rfl)),
    fun γ a_ w_ hb D => .inl (exec_nil (.tmp 33) rfl _ (D.1 4 33 rfl rfl)),
    fun γ a_ w_ hb D => .inl (exec_field 76 (.tmp 34) 2 rfl (gp) 64 (D.1 5 34 rfl rfl) (fld76_2 _)),
    fun γ a_ w_ hb D => .inl (exec_loadF (.tmp 35) rfl (gp) 2 64 rfl [x1, y1, z1, t1] z1 (D.1 6 35 rfl rfl) ((rwG HM1 2 rfl).keep hb) rfl),
    fun γ a_ w_ hb D => vcall 25 [.tmp 32, .tmp 36] #[23, 23] rfl [vN z1, vN z1] (hx2 (D.1 3 32 rfl rfl) (D.1 7 36 rfl rfl)) (CG25 _) C2.out,
    fun γ a_ w_ hb D => .inl (exec_move (.tmp 1) rfl _ (D.2 1 rfl)),
    fun γ a_ w_ hb D => .inl (exec_nil (.tmp 38) rfl _ (D.1 9 38 rfl rfl)),
    fun γ a_ w_ hb D => .inl (exec_field 76 (.tmp 39) 0 rfl (gp) 0 (D.1 10 39 rfl rfl) (fld76_0 _)),
    fun γ a_ w_ hb D => .inl (exec_loadF (.tmp 40) rfl (gp) 0 0 rfl [x1, y1, z1, t1] x1 (D.1 11 40 rfl rfl) ((rwG HM1 2 rfl).keep hb) rfl),
    fun γ a_ w_ hb D => .inl (exec_move (.tmp 1) rfl _ (D.2 1 rfl)),
    fun γ a_ w_ hb D => .inl (exec_nil (.tmp 42) rfl _ (D.1 13 42 rfl rfl)),
    fun γ a_ w_ hb D => .inl (exec_field 76 (.tmp 43) 1 rfl (gp) 32 (D.1 14 43 rfl rfl) (fld76_1 _)),
    fun γ a_ w_ hb D => .inl (exec_loadF (.tmp 44) rfl (gp) 1 32 rfl [x1, y1, z1, t1] y1 (D.1 15 44 rfl rfl) ((rwG HM1 2 rfl).keep hb) rfl),
    fun γ a_ w_ hb D => vcall 25 [.tmp 41, .tmp 45] #[23, 23] rfl [vN x1, vN y1] (hx2 (D.1 12 41 rfl rfl) (D.1 16 45 rfl rfl)) (CG25 _) C3.out,
    fun a_ w_ => exec_alloc 23 rfl (.agg (zbs 32)) zero23 w_,
    fun a_ w_ => exec_alloc 23 rfl (.agg (zbs 32)) zero23 w_,
    RO.put_ok rfl (fun γ a_ w_ D hz => fill 23 (.tmp 6) (.tmp 37) rfl (γ 18) (bcs (enc one)) (bcs (List.replicate 32 0)) (by rw [ce]; exact size23) (by rw [ce]; rfl) (bcs_one' _) (D.1 18 6 rfl rfl) (D.1 8 37 rfl rfl) hz),
    RO.put_ok rfl (fun γ a_ w_ D hz => fill 23 (.tmp 7) (.tmp 46) rfl (γ 19) (bcs (enc xy)) (bcs (List.replicate 32 0)) (by rw [ce]; exact size23) (by rw [ce]; rfl) (bcs_one' _) (D.1 19 7 rfl rfl) (D.1 17 46 rfl rfl) hz),
    trivial⟩ ?_
  intro γ W2 F2
  simp only [RO.lexi, RO.vof, Act.put, List.setIfInBounds_toArray, List.set_cons_zero, List.set_cons_succ, List.getElem?_cons_zero, List.getElem?_cons_succ, List.take_succ_cons, List.take_zero]
  have HG2_18 : Hid (w.heap.size ≤ γ 18) := Lib.hid (Nat.le_trans HF1.out.size (F2.row 18 _ _ _ rfl).1)
  have HG2_19 : Hid (w.heap.size ≤ γ 19) := Lib.hid (Nat.le_trans HF1.out.size (F2.row 19 _ _ _ rfl).1)
  have HN7 := Lib.hid (neC (c := bcs (enc one)) (F2.ne 18 19 _ _ _ _ _ _ (by decide) rfl rfl) (neO HM1 (F2.row 19 _ _ _ rfl).1))
  have HM2 := rwD (rwD (rwC HM1 F2.bel) (cbS (cs := bcs (enc one)) (F2.row 18 _ _ _ rfl).2)) (cbS (cs := bcs (enc xy)) (F2.row 19 _ _ _ rfl).2)
  have HF2 := bT HF1 F2.bel
  clear F2 HM1 HF1
  generalize γ 18 = g6 at *
  generalize γ 19 = g7 at *
  clear γ
  go_wp2_with (first | ((with_reducible show wpList _ _ _ (⟨some 47, .load 23 (.tmp 7), _, _, _, _⟩ :: _) _ _); go_must (refine wpList_exec rfl (vN xy) (loadN (.tmp 7) rfl (g7) xy rfl (rwG HM2 0 rfl)) ?_)) | ((with_reducible show wpList _ _ _ (⟨some 48, .load 23 (.tmp 7), _, _, _, _⟩ :: _) _ _); go_must (refine wpList_exec rfl (vN xy) (loadN (.tmp 7) rfl (g7) xy rfl (rwG HM2 0 rfl)) ?_)) | fail)
  refine (C4.out _).mono ?_
  rintro e3 x3 ⟨rfl, hb3⟩
  have HM3 := rwC HM2 hb3
  have HF3 := bT HF2 hb3
  clear hb3 HM2 HF2
  go_wp2_with (first | ((with_reducible show wpList _ _ _ (⟨none, .store 23 (.tmp 7) (.tmp 49), _, _, _, _⟩ :: _) _ _); go_must (refine wpList_set rfl 23 (.tmp 7) (.tmp 49) rfl (g7) rfl (bcs (enc x)) (bcs (enc xy)) rfl (rwG HM3 0 rfl) (by rw [ce]; exact size23) (by rw [ce, ce]) (bcs_one' _) ?_; intro y4 hc hg; have HF4 := Lib.hid (HF3.out.grown hg HF3.out.size (fun r hr => by injection hr with hr; have := HG2_19.out; omega)); have HM4 := rwD (rwGr (rwT HM3) HN7 hg) hc; clear hc hg HM3 HF3)) | ((with_reducible show wpList _ _ _ (⟨some 50, .load 23 (.tmp 5), _, _, _, _⟩ :: _) _ _); go_must (refine wpList_exec rfl (vN yy) (loadN (.tmp 5) rfl (g5) yy rfl (rwG HM4 2 rfl)) ?_)) | ((with_reducible show wpList _ _ _ (⟨some 51, .load 23 (.tmp 4), _, _, _, _⟩ :: _) _ _); go_must (refine wpList_exec rfl (vN xx) (loadN (.tmp 4) rfl (g4) xx rfl (rwG HM4 3 rfl)) ?_)) | fail)
  refine (C5.out _).mono ?_
  rintro e5 x5 ⟨rfl, hb5⟩
  have HM5 := rwC HM4 hb5
  have HF5 := bT HF4 hb5
  clear hb5 HM4 HF4
  go_wp2_with (first | ((with_reducible show wpList _ _ _ (⟨some 8, .alloc 23, _, _, _, _⟩ :: _) _ _); go_must (refine wpList_mk rfl 23 rfl (zbs 32) zero23 (.tmp 8) (.tmp 52) rfl (bcs (enc y)) rfl rfl rfl (by rw [ce]; exact size23) (Eq.symm (by rw [ce]; rfl)) (bcs_one' _) ?_; intro y6 a6 b6; have HG7 : Hid (w.heap.size ≤ x5.heap.size) := Lib.hid HF5.out.size; have HM7 := rwN HM5 b6 a6; have HF7 := bT HF5 b6; clear a6 b6 HM5 HF5)) | ((with_reducible show wpList _ _ _ (⟨some 53, .load 23 (.tmp 5), _, _, _, _⟩ :: _) _ _); go_must (refine wpList_exec rfl (vN yy) (loadN (.tmp 5) rfl (g5) yy rfl (rwG HM7 3 rfl)) ?_)) | ((with_reducible show wpList _ _ _ (⟨some 54, .load 23 (.tmp 4), _, _, _, _⟩ :: _) _ _); go_must (refine wpList_exec rfl (vN xx) (loadN (.tmp 4) rfl (g4) xx rfl (rwG HM7 4 rfl)) ?_)) | fail)
  generalize x5.heap.size = g8 at *
  refine (C6.out _).mono ?_
  rintro e8 x8 ⟨rfl, hb8⟩
  have HM8 := rwC HM7 hb8
  have HF8 := bT HF7 hb8
  clear hb8 HM7 HF7
  go_wp2_with (first | ((with_reducible show wpList _ _ _ (⟨some 9, .alloc 23, _, _, _, _⟩ :: _) _ _); go_must (refine wpList_mk rfl 23 rfl (zbs 32) zero23 (.tmp 9) (.tmp 55) rfl (bcs (enc ox)) rfl rfl rfl (by rw [ce]; exact size23) (Eq.symm (by rw [ce]; rfl)) (bcs_one' _) ?_; intro y9 a9 b9; have HG10 : Hid (w.heap.size ≤ x8.heap.size) := Lib.hid HF8.out.size; have HM10 := rwN HM8 b9 a9; have HF10 := bT HF8 b9; clear a9 b9 HM8 HF8)) | fail)
  generalize x8.heap.size = g9 at *
  refine RO.region_once (P := Try.prog) [.val (vN one), .val (vN one), .val (vN two), .val (vN ox), .val (vN oy), .new (zbs 32) 23 (bcs (enc oy)).toArray, .put 5] 63 (by kernel_rfl) (by kernel_rfl) (by kernel_rfl) (by kernel_rfl) rfl rfl ⟨
    fun γ a_ w_ hb D => .inl (loadN (.tmp 6) rfl (g6) one (D.2 6 rfl) ((rwG HM10 3 rfl).keep hb)),
    fun γ a_ w_ hb D => .inl (loadN (.tmp 6) rfl (g6) one (D.2 6 rfl) ((rwG HM10 3 rfl).keep hb)),
    fun γ a_ w_ hb D => vcall 19 [.tmp 56, .tmp 57] #[23, 23] rfl [vN one, vN one] (hx2 (D.1 0 56 rfl rfl) (D.1 1 57 rfl rfl)) (CG19 _) C7.out,
    fun γ a_ w_ hb D => .inl (loadN (.tmp 9) rfl (g9) ox (D.2 9 rfl) ((rwG HM10 0 rfl).keep hb)),
    fun γ a_ w_ hb D => vcall 21 [.tmp 58, .tmp 59] #[23, 23] rfl [vN two, vN ox] (hx2 (D.1 2 58 rfl rfl) (D.1 3 59 rfl rfl)) (CG21 _) C8.out,
    fun a_ w_ => exec_alloc 23 rfl (.agg (zbs 32)) zero23 w_,
    RO.put_ok rfl (fun γ a_ w_ D hz => fill 23 (.tmp 10) (.tmp 60) rfl (γ 5) (bcs (enc oy)) (bcs (List.replicate 32 0)) (by rw [ce]; exact size23) (by rw [ce]; rfl) (bcs_one' _) (D.1 5 10 rfl rfl) (D.1 4 60 rfl rfl) hz),
    trivial⟩ ?_
  intro γ W11 F11
  simp only [RO.lexi, RO.vof, Act.put, List.setIfInBounds_toArray, List.set_cons_zero, List.set_cons_succ, List.getElem?_cons_zero, List.getElem?_cons_succ, List.take_succ_cons, List.take_zero]
  have HG11_5 : Hid (w.heap.size ≤ γ 5) := Lib.hid (Nat.le_trans HF10.out.size (F11.row 5 _ _ _ rfl).1)
  have HM11 := rwD (rwC HM10 F11.bel) (cbS (cs := bcs (enc oy)) (F11.row 5 _ _ _ rfl).2)
  have HF11 := bT HF10 F11.bel
  clear F11 HM10 HF10
  generalize γ 5 = g10 at *
  clear γ
  go_wp2_with fail
  refine (HD.out _ _ _ _ _ (show RAt _ _ _ from (rwG HM11 8 rfl)) ((rwG HM11 3 rfl)).row ((rwG HM11 1 rfl)).row ((rwG HM11 2 rfl)).row ((rwG HM11 0 rfl)).row (by have := RG_0.out.lt; have := HG2_19.out; omega) (by have := RG_0.out.lt; have := HG10.out; omega) (by have := RG_0.out.lt; have := HG7.out; omega) (by have := RG_0.out.lt; have := HG11_5.out; omega)).mono ?_
  rintro e we ⟨rfl, hr, hk⟩
  have HKE := Lib.hid ((Keeps.of_below (G := (· = g)) HF11.out).trans hk)
  have HRE := Lib.hid hr
  clear hr hk HM11 HF11
  go_wp2_with fail
  refine bodyPost_end (results_none rfl _ _ _) rfl ?_
  exact ⟨rfl, HRE.out, HKE.out⟩
end Go.Proofs.Ytgdimnbdnepbgaa
/- Bits of numbers, the highest one; doubling; multiples. No statement is proved here. -/
namespace Go.Proofs.Ytgdimnbdnepbgaa
open Go.RowKit
set_option linter.unusedVariables false
set_option maxRecDepth 40000
set_option linter.unusedSimpArgs false

set_option maxHeartbeats 2000000 in
theorem Bit_core (a i c : Nat) (b : Bool) (hi : i < 256) (w : World) (HC : Hid (((enc a).getD (i / 8) 0).toNat = c)) (HB : Hid ((bits .and .u8 ((c : Int) / 2 ^ (i % 8)) 1 == 1) = b)) :
    Calls Try.prog 103 #[vN a, .int .i64 i] w (Gives (.bool b) w) := by
  have hii : (i : Int) < 256 := by omega
  go_enter Try.func103, Try.ntmps103
  go_wp2_with (first | ((with_reducible show wpList _ _ _ (⟨some 2, .box 23 (.tmp 0), _, _, _, _⟩ :: _) _ _); go_must (refine wpList_box_row rfl 23 (.tmp 0) rfl (bcs (enc a)).toArray rfl ?_; intro a1 h1 z1 g1; have HF : Hid (Below w.heap.size w a1) := below_of_grownBy g1; have c0 : a1.cell? ⟨w.heap.size, i / 8, none⟩ = some (.int .u8 (((enc a).getD (i / 8) 0).toNat : Nat)) := (show BAt a1 w.heap.size (enc a) from ⟨enc_len a, 23, h1⟩).cell (i / 8) (by omega); rw [HC.out] at c0; clear h1 z1 g1)) | fail)
  go_ret
  refine ⟨?_, HF.out⟩
  exact congrArg (fun x => Ending.returned (.bool x)) HB.out
theorem bit_num (a i : Nat) : a / 256 ^ (i / 8) % 256 / 2 ^ (i % 8) % 2 = a / 2 ^ i % 2 := by
  have e : 2 ^ i = 256 ^ (i / 8) * 2 ^ (i % 8) := by rw [show (256 : Nat) = 2 ^ 8 from rfl, ← Nat.pow_mul, ← Nat.pow_add]; congr 1; omega
  rw [e, ← Nat.div_div_eq_div_mul]
  generalize a / 256 ^ (i / 8) = z
  have h8 : i % 8 = 0 ∨ i % 8 = 1 ∨ i % 8 = 2 ∨ i % 8 = 3 ∨ i % 8 = 4 ∨ i % 8 = 5 ∨ i % 8 = 6 ∨ i % 8 = 7 := by omega
  rcases h8 with h | h | h | h | h | h | h | h <;> rw [h] <;> omega
theorem Bit_any (a i : Nat) (ha : a < TT) (hi : i < 256) (w : World) : Calls Try.prog 103 #[vN a, .int .i64 i] w (Gives (.bool (decide (a / 2 ^ i % 2 = 1))) w) := by
  refine Bit_core a i _ _ hi w (Lib.hid (enc_byte a ha (i / 8))) (Lib.hid ?_)
  have hc : a / 256 ^ (i / 8) % 256 / 2 ^ (i % 8) < 256 := Nat.lt_of_le_of_lt (Nat.div_le_self _ _) (Nat.mod_lt _ (by decide))
  rw [← bit_num, show ((2 : Int) ^ (i % 8)) = ((2 ^ (i % 8) : Nat) : Int) from by simp, ← Int.natCast_ediv]
  exact and_one _ hc
/-- The place above the highest bit of a and b. -/
def Top (a b j : Nat) : Prop := j ≤ 256 ∧ a / 2 ^ j = 0 ∧ b / 2 ^ j = 0
set_option maxHeartbeats 2000000 in
theorem highest_core (a b g1 g2 : Nat) (w : World) (R1 : Hid (RAt w g1 [a])) (R2 : Hid (RAt w g2 [b])) (H0 : Hid (Top a b 256))
    (B1 : Hid (∀ i : Nat, i < 256 → ∀ w, Calls Try.prog 103 #[vN a, .int .i64 i] w (Gives (.bool (decide (a / 2 ^ i % 2 = 1))) w)))
    (B2 : Hid (∀ i : Nat, i < 256 → ∀ w, Calls Try.prog 103 #[vN b, .int .i64 i] w (Gives (.bool (decide (b / 2 ^ i % 2 = 1))) w))) :
    Calls Try.prog 101 #[.pointer (some ⟨g1, 0, none⟩), .pointer (some ⟨g2, 0, none⟩)] w (fun e w' => ∃ j, Top a b j ∧ e = .returned (.int .i64 ((j : Int) - 1)) ∧ Below w.heap.size w w') := by
  go_enter Try.func101, Try.ntmps101
  go_wp2_with fail
  go_loopw [5] (fun i wr => ∃ j : Nat, Top a b j ∧ i = .int .i64 ((j : Int) - 1) ∧ RAt wr g1 [a] ∧ RAt wr g2 [b] ∧ Below w.heap.size w wr) (fun i _ => ((intOf i) + 1).toNat)
  case atStart => exact ⟨256, H0.out, rfl, R1.out, R2.out, Below.refl _ _⟩
  case round =>
    obtain ⟨j, ht, rfl, hp, hq, hr⟩ := hrel
    have HT := Lib.hid ht
    have S1 := Lib.hid hp
    have S2 := Lib.hid hq
    have HF := Lib.hid hr
    clear ht hp hq hr R1 R2 H0
    have hj := HT.out.1
    by_cases h0 : j = 0
    · subst h0
      go_wp2_with fail
      go_ret
      exact ⟨0, HT.out, rfl, HF.out⟩
    · obtain ⟨i, rfl⟩ : ∃ i, j = i + 1 := ⟨j - 1, by omega⟩
      have HT2 : Hid (a / 2 ^ i % 2 = 0 → b / 2 ^ i % 2 = 0 → Top a b i) := Lib.hid fun e1 e2 => by
        obtain ⟨_, h1, h2⟩ := HT.out
        rw [Nat.pow_succ, ← Nat.div_div_eq_div_mul] at h1 h2
        exact ⟨by omega, by omega, by omega⟩
      have C1 := Lib.hid (B1.out i (by omega))
      have C2 := Lib.hid (B2.out i (by omega))
      rw [show ((i + 1 : Nat) : Int) - 1 = (i : Int) from by omega]
      have hii : (0 : Int) ≤ (i : Int) := by omega
      have hib : (i : Int) < 256 := by omega
      by_cases e1 : a / 2 ^ i % 2 = 1
      · rw [decide_eq_true e1] at C1
        go_wp2_with (first | ((with_reducible show wpList _ _ _ (⟨_, .load 23 (.tmp 10), _, _, _, _⟩ :: _) _ _); go_must (refine wpList_exec rfl (vN a) (exec_loadF (.tmp 10) rfl g1 0 0 rfl [a] a rfl S1.out rfl) ?_)) | fail)
        refine (C1.out _).mono ?_
        rintro e x1 ⟨rfl, hb⟩
        have HF2 := Lib.hid (HF.out.trans (hb.mono HF.out.size))
        clear hb HF
        go_wp2_with fail
        go_ret
        exact ⟨i + 1, HT.out, by rw [show ((i + 1 : Nat) : Int) - 1 = (i : Int) from by omega]; rfl, HF2.out⟩
      · rw [decide_eq_false e1] at C1
        go_wp2_with (first | ((with_reducible show wpList _ _ _ (⟨_, .load 23 (.tmp 10), _, _, _, _⟩ :: _) _ _); go_must (refine wpList_exec rfl (vN a) (exec_loadF (.tmp 10) rfl g1 0 0 rfl [a] a rfl S1.out rfl) ?_)) | fail)
        refine (C1.out _).mono ?_
        rintro e x1 ⟨rfl, hb⟩
        have HF2 := Lib.hid (HF.out.trans (hb.mono HF.out.size))
        have T1 := Lib.hid (S1.out.keep hb)
        have T2 := Lib.hid (S2.out.keep hb)
        clear hb HF S1 S2
        go_wp2_with (first | ((with_reducible show wpList _ _ _ (⟨_, .load 23 (.tmp 18), _, _, _, _⟩ :: _) _ _); go_must (refine wpList_exec rfl (vN b) (exec_loadF (.tmp 18) rfl g2 0 0 rfl [b] b rfl T2.out rfl) ?_)) | fail)
        by_cases e2 : b / 2 ^ i % 2 = 1
        · rw [decide_eq_true e2] at C2
          refine (C2.out _).mono ?_
          rintro e x2 ⟨rfl, hb⟩
          have HF3 := Lib.hid (HF2.out.trans (hb.mono HF2.out.size))
          clear hb HF2
          go_wp2_with fail
          go_ret
          exact ⟨i + 1, HT.out, by rw [show ((i + 1 : Nat) : Int) - 1 = (i : Int) from by omega]; rfl, HF3.out⟩
        · rw [decide_eq_false e2] at C2
          refine (C2.out _).mono ?_
          rintro e x2 ⟨rfl, hb⟩
          have HF3 := Lib.hid (HF2.out.trans (hb.mono HF2.out.size))
          have U1 := Lib.hid (T1.out.keep hb)
          have U2 := Lib.hid (T2.out.keep hb)
          clear hb HF2 T1 T2
          go_wp2_with fail
          refine ⟨⟨i, HT2.out (by omega) (by omega), by go_num, U1.out, U2.out, HF3.out⟩, by simp [intOf]⟩
end Go.Proofs.Ytgdimnbdnepbgaa
/- Multiples of points; doubling. No statement is proved here. -/
namespace Go.Proofs.Ytgdimnbdnepbgaa
open Go.RowKit
set_option linter.unusedVariables false
set_option maxRecDepth 40000
set_option linter.unusedSimpArgs false

namespace Ed
variable {n : Nat} [NeZero n]
def sm (E : Ed n) (p : E.Pt) : Nat → E.Pt
  | 0 => E.zero
  | k + 1 => E.add (E.sm p k) p
theorem sm_add (E : Ed n) (p : E.Pt) (a : Nat) : ∀ b, E.sm p (a + b) = E.add (E.sm p a) (E.sm p b)
  | 0 => (E.add_zero _).symm
  | b + 1 => by
    show E.add (E.sm p (a + b)) p = E.add (E.sm p a) (E.add (E.sm p b) p)
    rw [sm_add E p a b, E.add_assoc]
theorem sm_one (E : Ed n) (p : E.Pt) : E.sm p 1 = p := E.zero_add p
theorem sm_two (E : Ed n) (p : E.Pt) (a : Nat) : E.sm p (2 * a) = E.add (E.sm p a) (E.sm p a) := by rw [Nat.two_mul, E.sm_add]
theorem add4 (E : Ed n) (p q r s : E.Pt) : E.add (E.add p q) (E.add r s) = E.add (E.add p r) (E.add q s) := by
  rw [E.add_assoc, ← E.add_assoc q, E.add_comm q r, E.add_assoc r, ← E.add_assoc]
theorem sm_sum (E : Ed n) (p q : E.Pt) : ∀ a, E.sm (E.add p q) a = E.add (E.sm p a) (E.sm q a)
  | 0 => (E.add_zero _).symm
  | a + 1 => by
    show E.add (E.sm (E.add p q) a) (E.add p q) = E.add (E.add (E.sm p a) p) (E.add (E.sm q a) q)
    rw [sm_sum E p q a, E.add4]
theorem sm_zero (E : Ed n) : ∀ a, E.sm E.zero a = E.zero
  | 0 => rfl
  | a + 1 => by
    show E.add (E.sm E.zero a) E.zero = E.zero
    rw [sm_zero E a, E.add_zero]
theorem sm_mul (E : Ed n) (p : E.Pt) (a : Nat) : ∀ b, E.sm p (a * b) = E.sm (E.sm p a) b
  | 0 => rfl
  | b + 1 => by
    rw [Nat.mul_succ, E.sm_add, sm_mul E p a b]
    rfl
/-- a times p and b times q, without the low i bits. -/
def two (E : Ed n) (p q : E.Pt) (a b i : Nat) : E.Pt := E.add (E.sm p (a / 2 ^ i)) (E.sm q (b / 2 ^ i))
theorem two_step (E : Ed n) (p q : E.Pt) (a b i : Nat) : E.two p q a b i = E.add (E.add (E.two p q a b (i + 1)) (E.two p q a b (i + 1))) (E.add (E.sm p (a / 2 ^ i % 2)) (E.sm q (b / 2 ^ i % 2))) := by
  have e : ∀ x : Nat, x / 2 ^ i = 2 * (x / 2 ^ (i + 1)) + x / 2 ^ i % 2 := fun x => by
    rw [Nat.pow_succ, ← Nat.div_div_eq_div_mul]
    omega
  unfold two
  rw [E.add4 (E.sm p (a / 2 ^ (i + 1))), ← E.sm_two, ← E.sm_two, E.add4, ← E.sm_add, ← E.sm_add, ← e, ← e]
end Ed
def X4.dbl (p : X4) : X4 :=
  let xx := p.x * p.x
  let yy := p.y * p.y
  let one := p.z * p.z
  let x := p.x * p.y + p.x * p.y
  let y := yy + xx
  let ox := yy - xx
  let oy := one + one - ox
  ⟨x * oy, y * ox, ox * oy, x * y⟩
theorem edouble_any (p : X4) (r0 r1 r2 r3 : Nat) (w : World) (g gp : Nat) (h0 : RAt w g [r0, r1, r2, r3]) (hp : RAt w gp p.l) :
    Calls Try.prog 102 #[.pointer (some ⟨g, 0, none⟩), .pointer (some ⟨gp, 0, none⟩)] w (SetsR g p.dbl.l w) :=
  edouble_core g gp r0 r1 r2 r3 p.x.val p.y.val p.z.val p.t.val (p.x * p.x).val (p.y * p.y).val (p.z * p.z).val (p.x * p.y).val (p.x * p.y + p.x * p.y).val (p.y * p.y + p.x * p.x).val (p.y * p.y - p.x * p.x).val (p.z * p.z + p.z * p.z).val (p.z * p.z + p.z * p.z - (p.y * p.y - p.x * p.x)).val _ _ _ _ w
    (Lib.hid (fMul _ _)) (Lib.hid (fMul _ _)) (Lib.hid (fMul _ _)) (Lib.hid (fMul _ _)) (Lib.hid (fAdd _ _)) (Lib.hid (fAdd _ _)) (Lib.hid (fSub _ _)) (Lib.hid (fAdd _ _)) (Lib.hid (fSub _ _))
    (Lib.hid fun w g1 g2 g3 g4 h0 h1 h2 h3 h4 n1 n2 n3 n4 => divide_any _ _ _ _ r0 r1 r2 r3 w g g1 g2 g3 g4 h0 h1 h2 h3 h4 n1 n2 n3 n4) (Lib.hid h0) (Lib.hid hp)
theorem X4.Is.dbl {p : X4} {x1 y1 : Fin PP} (hp : p.Is x1 y1) (o1 : EC.On x1 y1) : p.dbl.Is (EC.sx x1 y1 x1 y1) (EC.sy x1 y1 x1 y1) := by
  obtain ⟨p0, p1, p2, p3⟩ := hp
  have e1 := EC.sx_eq o1 o1
  have e2 := EC.sy_eq o1 o1
  have d1 := EC.den1 o1 o1
  have d2 := EC.den2 o1 o1
  have hz : p.z * p.z ≠ 0 := EC.mul_ne p0 p0
  have hd : EC.d = dF := rfl
  unfold Ed.On at o1
  rw [hd] at e1 e2 d1 d2 o1
  generalize EC.sx x1 y1 x1 y1 = X at *
  generalize EC.sy x1 y1 x1 y1 = Y at *
  have k1 : p.y * p.y - p.x * p.x = p.z * p.z * (1 + dF * (x1 * y1 * (x1 * y1))) := by rw [p1, p2]; grind
  have k2 : p.z * p.z + p.z * p.z - p.z * p.z * (1 + dF * (x1 * y1 * (x1 * y1))) = p.z * p.z * (1 - dF * (x1 * y1 * (x1 * y1))) := by grind
  have k3 : p.x * p.y + p.x * p.y = p.z * p.z * (x1 * y1 + y1 * x1) := by rw [p1, p2]; grind
  have k4 : p.y * p.y + p.x * p.x = p.z * p.z * (y1 * y1 + x1 * x1) := by rw [p1, p2]; grind
  unfold X4.Is X4.dbl
  simp only
  rw [k1, k2, k3, k4, ← e1, ← e2]
  clear k1 k2 k3 k4 e1 e2 o1 p3 p1 p2
  generalize 1 + dF * (x1 * y1 * (x1 * y1)) = B at *
  generalize 1 - dF * (x1 * y1 * (x1 * y1)) = D at *
  generalize p.z * p.z = z at *
  refine ⟨EC.mul_ne (EC.mul_ne hz d1) (EC.mul_ne hz d2), by grind, by grind, by grind⟩
/-- p in extended coordinates. -/
def X4.IsP (x : X4) (p : EC.Pt) : Prop := x.Is p.1.1 p.1.2
theorem X4.IsP.add {x y : X4} {p q : EC.Pt} (hx : x.IsP p) (hy : y.IsP q) : (x.sum y).IsP (EC.add p q) := X4.Is.sum hx hy p.2 q.2
theorem X4.IsP.dbl {x : X4} {p : EC.Pt} (hx : x.IsP p) : x.dbl.IsP (EC.add p p) := X4.Is.dbl hx p.2
theorem X4.IsP.of (p : EC.Pt) : (X4.of p).IsP p := X4.of_is p
theorem X4.IsP.point {x : X4} {p : EC.Pt} (h : x.IsP p) (w : World) (g : Nat) (hr : RAt w g x.l) : Calls Try.prog 82 #[.pointer (some ⟨g, 0, none⟩)] w (Gives (vPt p) w) := by
  have h2 := epoint_any x w g hr
  have hq := X4.Is.point h
  rw [hq.1, hq.2] at h2
  exact h2
end Go.Proofs.Ytgdimnbdnepbgaa
/- The curve's examples, Bytes and Read over points. No statement is proved here. -/
namespace Go.Proofs.Ytgdimnbdnepbgaa
open Go.RowKit
set_option linter.unusedVariables false
set_option maxRecDepth 40000
set_option linter.unusedSimpArgs false

theorem bxN_lt : bxN < PP := by unfold bxN PP; omega
theorem byN_lt : byN < PP := by unfold byN PP; omega
def bX : Fin PP := ⟨bxN, bxN_lt⟩
def bY : Fin PP := ⟨byN, byN_lt⟩
theorem base_on : bY * bY - bX * bX = 1 + dF * (bX * bX * (bY * bY)) := by decide +kernel
noncomputable def bP : EC.Pt := ⟨(bX, bY), base_on⟩
theorem pBase (w : World) : Calls Try.prog 42 #[] w (Gives (vPt bP) w) := Base_any w
theorem across_any (k : Nat) (hk : PP = 8 * k + 5) (y : Fin PP) (w : World) :
    Calls Try.prog 78 #[vN y.val] w (Gives (.tuple #[vN (rt PP k ((y * y - 1) * fInv (dF * (y * y) + 1)).val).1, .bool (rt PP k ((y * y - 1) * fInv (dF * (y * y) + 1)).val).2]) w) := by
  have hA : ∀ w, Calls Try.prog 19 #[vN (dF * (y * y)).val, vN 1] w (Gives (vN (dF * (y * y) + 1).val) w) := fun w => by
    have h := fAdd (dF * (y * y)) 1 w
    rw [v1] at h
    exact h
  have hS : ∀ w, Calls Try.prog 21 #[vN (y * y).val, vN 1] w (Gives (vN (y * y - 1).val) w) := fun w => by
    have h := fSub (y * y) 1 w
    rw [v1] at h
    exact h
  have hR := Root_any k hk ((y * y - 1) * fInv (dF * (y * y) + 1)).val (fT _)
  generalize rt PP k ((y * y - 1) * fInv (dF * (y * y) + 1)).val = r at *
  exact across_core y.val _ _ _ _ _ _ _ r.1 r.2 w (Lib.hid fun w => Of_any 1 (by omega) w) (Lib.hid (fMul y y)) (Lib.hid fD) (Lib.hid (fMul _ _)) (Lib.hid hA) (Lib.hid (fInvC _)) (Lib.hid hS) (Lib.hid (fMul _ _)) (Lib.hid hR)
theorem rt_zero (k : Nat) : rt PP k 0 = (0, true) := by
  have h0 : (0 % PP) ^ (k + 1) % PP = 0 := by rw [Nat.zero_mod, Nat.zero_pow (by omega), Nat.zero_mod]
  unfold rt
  rw [h0, Nat.zero_mul, Nat.zero_mod, if_pos rfl]
  rfl
theorem oddOne_t : ((enc oddOne).getD 31 0).toNat = 128 := by decide +kernel
theorem oddOne_s : (enc oddOne).set 31 (UInt8.ofNat 0) = enc 1 := by decide +kernel
theorem clives_any (w : World) : Calls Try.prog 38 #[] w (Gives (.bool true) w) := by
  obtain ⟨k, hk⟩ := k_ex
  have hO : ∀ w, Calls Try.prog 31 #[vN bxN] w (Gives (.bool false) w) := fun w => by
    have h := Odd_any bxN (Nat.lt_trans bxN_lt PP_lt) w
    rw [show decide (bxN % PP % 2 = 1) = false from by decide +kernel] at h
    exact h
  have hB : ∀ w, Calls Try.prog 36 #[vR [bxN, byN]] w (Gives (.tuple #[vN byN, .int .i64 0]) w) := fun w =>
    Bytes_core bxN byN byN false w (Lib.hid (pCheck bP)) (Lib.hid hO) (Lib.hid (by simp)) (Lib.hid (by decide +kernel))
  have hA : ∀ w, Calls Try.prog 78 #[vN 1] w (Gives (.tuple #[vN 0, .bool true]) w) := fun w => by
    have h := across_any k hk 1 w
    have e : ((1 * 1 - 1) * fInv (dF * (1 * 1) + 1) : Fin PP) = 0 := by
      generalize fInv (dF * (1 * 1) + 1) = v
      grind
    rw [e, v0, rt_zero, v1] at h
    exact h
  have hC : ∀ w, Calls Try.prog 15 #[vN 1] w (Gives (.bool true) w) := fun w => by
    have h := fCanon 1 w
    rw [v1] at h
    exact h
  have hN : ∀ w, Calls Try.prog 23 #[vN 0] w (Gives (vN 0) w) := fun w => gives_N (by unfold PP; omega) (Neg_any 0 (by unfold TT; omega) w)
  have hR : ∀ w, Calls Try.prog 35 #[vN oddOne] w (Gives (.tuple #[vR [0, 0], .int .i64 4]) w) := fun w =>
    Read_core oddOne 1 0 0 128 0 0 0 4 true true true true w (Lib.hid oddOne_t) (Lib.hid (by decide +kernel)) (Lib.hid (by decide +kernel)) (Lib.hid (by omega)) (Lib.hid oddOne_s) (Lib.hid hC) (Lib.hid hA) (Lib.hid hN) (Lib.hid (eqN_same 0)) (Lib.hid (by simp))
  exact clives_core bxN byN oddOne w (Lib.hid Base_any) (Lib.hid hB) (Lib.hid hR) (Lib.hid rfl) (Lib.hid (by decide +kernel)) (Lib.hid fun i h1 h2 => (by decide +kernel : ∀ i, i < 32 → 1 ≤ i → ((enc byN).getD i 0).toNat = 102) i h2 h1)
end Go.Proofs.Ytgdimnbdnepbgaa
/- The lexical order of a long region, checked in fewer steps. No statement is proved here. -/
namespace Go.Proofs.Ytgdimnbdnepbgaa
open Go.RowKit
set_option linter.unusedVariables false
set_option linter.unusedSimpArgs false

def lstd (k m : Nat) : Array Bool := (List.replicate k true ++ List.replicate m false).toArray
theorem lstd_get (k m j : Nat) (d : Bool) : (lstd k m).getD j d = if j < k then true else if j < k + m then false else d := by
  unfold lstd
  rw [Array.getD_eq_getD_getElem?, List.getElem?_toArray]
  by_cases h : j < k
  · rw [if_pos h, List.getElem?_append_left (by simpa using h), List.getElem?_replicate, if_pos h]; rfl
  · rw [if_neg h, List.getElem?_append_right (by simpa using Nat.le_of_not_lt h), List.getElem?_replicate, List.length_replicate]
    by_cases h2 : j < k + m
    · rw [if_pos h2, if_pos (by omega)]; rfl
    · rw [if_neg h2, if_neg (by omega)]; rfl
theorem lstd_set (k m : Nat) : (lstd k (m + 1)).setIfInBounds k true = lstd (k + 1) m := by
  unfold lstd
  apply Array.toList_inj.1
  rw [Array.toList_setIfInBounds]
  show (List.replicate k true ++ List.replicate (m + 1) false).set k true = List.replicate (k + 1) true ++ List.replicate m false
  rw [List.set_append_right _ _ (by simp), List.length_replicate, Nat.sub_self, List.replicate_succ, List.set_cons_zero]
  simp [List.replicate_succ', List.append_assoc]
def stepsOk (md : Region.Mode) (ops : Array Oper) : Nat → List Oper → Bool
  | _, [] => true
  | k, o :: l => (o.after.all fun e => !Region.binds md e || decide (e.on < k)) && ((l.all fun oj => oj.after.any (fun e => Region.binds md e && e.on == k) || o.apart ops oj) && stepsOk md ops (k + 1) l)
theorem lex_steps (md : Region.Mode) (ops : Array Oper) : ∀ (l : List Oper) (k : Nat), (∀ j, l[j]? = ops[k + j]?) → k + l.length = ops.size → stepsOk md ops k l = true → Region.lexFrom md ops l.length k (lstd k l.length) = true
  | [], k, _, hn, _ => by
    show (Region.ready md ops (lstd k 0)).isEmpty = true
    rw [List.isEmpty_iff, List.eq_nil_iff_forall_not_mem]
    intro j hj
    have h := (mem_ready.1 hj).1
    rw [lstd_get] at h
    by_cases h1 : j < k
    · rw [if_pos h1] at h; cases h
    · rw [if_neg h1, if_neg (by simpa using h1)] at h; cases h
  | o :: l, k, hl, hn, h => by
    have h0 : ops[k]? = some o := by simpa using (hl 0).symm
    simp only [stepsOk, Bool.and_eq_true] at h
    obtain ⟨h1, h2, h3⟩ := h
    show ((Region.ready md ops (lstd k (l.length + 1))).contains k && Region.free md ops (lstd k (l.length + 1)) k && Region.lexFrom md ops l.length (k + 1) ((lstd k (l.length + 1)).setIfInBounds k true)) = true
    rw [lstd_set, lex_steps md ops l (k + 1) (fun j => by have := hl (j + 1); simpa [Nat.add_assoc, Nat.add_comm 1 j] using this) (by simp only [List.length_cons] at hn; omega) h3, Bool.and_true, Bool.and_eq_true]
    constructor
    · rw [List.contains_iff_mem, mem_ready]
      refine ⟨by rw [lstd_get, if_neg (by omega), if_pos (by omega)], o, h0, fun e he hb => ?_⟩
      have := Array.all_eq_true_iff_forall_mem.1 h1 e he
      rw [hb] at this
      simp at this
      rw [lstd_get, if_pos this]
    · unfold Region.free
      rw [h0]
      simp only
      rw [List.all_eq_true]
      intro j hj
      rw [List.mem_range] at hj
      by_cases hjk : j = k
      · subst hjk; simp
      · by_cases hlt : j < k
        · rw [lstd_get, if_pos hlt]; simp
        · obtain ⟨i, rfl⟩ : ∃ i, j = k + (i + 1) := ⟨j - k - 1, by omega⟩
          have hli : (o :: l)[i + 1]? = ops[k + (i + 1)]? := hl (i + 1)
          rw [List.getElem?_cons_succ] at hli
          rw [← hli]
          cases ho : l[i]? with
          | none => simp
          | some oj =>
            have hm := List.mem_of_getElem? ho
            have := List.all_eq_true.1 h2 oj hm
            simp only [Bool.or_eq_true] at this ⊢
            exact .inr this
theorem lexB_steps (md : Region.Mode) (l : List Oper) (h1 : Region.noSelect l.toArray = true) (h2 : stepsOk md l.toArray 0 l = true) : Region.lexB md l.toArray = true := by
  unfold Region.lexB
  rw [h1, Bool.true_and]
  have h := lex_steps md l.toArray l 0 (fun j => by rw [Nat.zero_add, List.getElem?_toArray]) (by simp) h2
  have e : (Array.replicate l.toArray.size false) = lstd 0 l.length := by
    unfold lstd
    apply Array.toList_inj.1
    simp
  rw [e]
  simpa using h
/-- A long region. -/
theorem region_wq2 {id : Nat} {Q : Exit → Act → World → Prop} {a : Act} {w : World} {l : List Oper} (hm : Try.prog.follows .mixedOrders = true) (h1 : Region.noSelect l.toArray = true) (h2 : stepsOk .any l.toArray 0 l = true)
    (h : WQ Try.prog l.toArray (CB w) (fun a' => ∀ w', Below w.heap.size w w' → Q .normal a' w') l a) : (Code.region id l.toArray true).wp Try.prog Q a w := region_wq hm (lexB_steps _ _ h1 h2) h
end Go.Proofs.Ytgdimnbdnepbgaa
/- Points that come in; steps of quiet regions over points. No statement is proved here. -/
namespace Go.Proofs.Ytgdimnbdnepbgaa
open Go.RowKit
set_option linter.unusedVariables false
set_option maxRecDepth 40000
set_option linter.unusedSimpArgs false

section
variable {ops : Array Oper} {rest : List Oper} {o : Oper} {a : Act} {w0 : World} {Q : Act → Prop}
theorem wq_loadP (hw : Region.wanted o (yielded ops a.tmps) = true) (x : Operand) (ho : o.op = .load 35 x) (g m n : Nat) (hx : a.eval x = .pointer (some ⟨g, 0, none⟩)) (hr : RAt w0 g [m, n]) (h : WQ Try.prog ops (CB w0) Q rest (a.put o.dst (vR [m, n]))) : WQ Try.prog ops (CB w0) Q (o :: rest) a :=
  ⟨qb_val hw _ (fun w hk => exec_loadP x ho g m n hx (hr.keep hk)) h.out⟩
theorem wq_loadF (hw : Region.wanted o (yielded ops a.tmps) = true) (x : Operand) (ho : o.op = .load 23 x) (g i off : Nat) (he : off = 32 * i) (l : List Nat) (n : Nat) (hx : a.eval x = .pointer (some ⟨g, off, none⟩)) (hr : RAt w0 g l) (hn : l[i]? = some n) (h : WQ Try.prog ops (CB w0) Q rest (a.put o.dst (vN n))) : WQ Try.prog ops (CB w0) Q (o :: rest) a :=
  ⟨qb_val hw _ (fun w hk => exec_loadF x ho g i off he l n hx (hr.keep hk) hn) h.out⟩
theorem wq_load22 (hw : Region.wanted o (yielded ops a.tmps) = true) (x : Operand) (ho : o.op = .load 22 x) (g n : Nat) (hx : a.eval x = .pointer (some ⟨g, 0, none⟩)) (hr : RAt w0 g [n]) (h : WQ Try.prog ops (CB w0) Q rest (a.put o.dst (vN n))) : WQ Try.prog ops (CB w0) Q (o :: rest) a :=
  ⟨qb_val hw _ (fun w hk => exec_load22 x ho g 0 0 rfl [n] n hx (hr.keep hk) rfl) h.out⟩
theorem wq_field (hw : Region.wanted o (yielded ops a.tmps) = true) (t : TypeId) (x : Operand) (i : Nat) (ho : o.op = .fieldAddr t x i) (g off : Nat) (hx : a.eval x = .pointer (some ⟨g, 0, none⟩)) (hr : ∀ w, (Instr.fieldAt t (.pointer (some ⟨g, 0, none⟩)) i).run Try.prog w = .ok (.pointer (some ⟨g, off, none⟩)) w)
    (h : WQ Try.prog ops (CB w0) Q rest (a.put o.dst (.pointer (some ⟨g, off, none⟩)))) : WQ Try.prog ops (CB w0) Q (o :: rest) a :=
  ⟨qb_val hw _ (fun w _ => exec_field t x i ho g off hx hr) h.out⟩
theorem wq_buildc (hw : Region.wanted o (yielded ops a.tmps) = true) (t : TypeId) (parts : Array (Nat × Operand)) (v : Value) (ho : o.op = .build t parts) (hr : ∀ w, (Instr.build t (parts.map fun (i, x) => (i, a.eval x))).run Try.prog w = .ok v w) (h : WQ Try.prog ops (CB w0) Q rest (a.put o.dst v)) : WQ Try.prog ops (CB w0) Q (o :: rest) a :=
  ⟨qb_val hw _ (fun w _ => exec_buildc ho (hr w)) h.out⟩
theorem exec_eqP {w : World} {m n m' n' : Nat} {b : Bool} (x y : Operand) (ho : o.op = .binOp .eql 35 x y 35) (hx : a.eval x = vR [m, n]) (hy : a.eval y = vR [m', n']) (hb : (Op.equalIn 10000 35 (vR [m, n]) (vR [m', n'])).run Try.prog w = .ok b w) : (execOp a.eval o).run Try.prog w = .ok (.value (.bool b)) w := by
  have hg : ∀ (x y : Operand), (eqGuard .eql 35 x y (vR [m, n]) (vR [m', n'])).run Try.prog w = .ok () w := fun x y => run_eqGuard_agg w .eql 35 x y _ _ Try.eqGuardType35
  have hbin : (binOp .eql 35 (vR [m, n]) (vR [m', n'])).run Try.prog w = .ok (.bool b) w := by
    show (do pure (.bool (← Op.equal 35 (vR [m, n]) (vR [m', n']))) : Sem Value).run Try.prog w = _
    rw [Sem.run_bind, show (Op.equal 35 (vR [m, n]) (vR [m', n'])) = Op.equalIn 10000 35 (vR [m, n]) (vR [m', n']) from rfl, hb]
    rfl
  unfold execOp
  simp only [ho, hx, hy, Sem.run_bind, Sem.run_pure, Result.andThen_ok, hg, hbin]
theorem exec_neqP {w : World} {m n m' n' : Nat} {b : Bool} (x y : Operand) (ho : o.op = .binOp .neq 35 x y 35) (hx : a.eval x = vR [m, n]) (hy : a.eval y = vR [m', n']) (hb : (Op.equalIn 10000 35 (vR [m, n]) (vR [m', n'])).run Try.prog w = .ok b w) : (execOp a.eval o).run Try.prog w = .ok (.value (.bool (!b))) w := by
  have hg : ∀ (x y : Operand), (eqGuard .neq 35 x y (vR [m, n]) (vR [m', n'])).run Try.prog w = .ok () w := fun x y => run_eqGuard_agg w .neq 35 x y _ _ Try.eqGuardType35
  have hbin : (binOp .neq 35 (vR [m, n]) (vR [m', n'])).run Try.prog w = .ok (.bool (!b)) w := by
    show (do pure (.bool (!(← Op.equal 35 (vR [m, n]) (vR [m', n'])))) : Sem Value).run Try.prog w = _
    rw [Sem.run_bind, show (Op.equal 35 (vR [m, n]) (vR [m', n'])) = Op.equalIn 10000 35 (vR [m, n]) (vR [m', n']) from rfl, hb]
    rfl
  unfold execOp
  simp only [ho, hx, hy, Sem.run_bind, Sem.run_pure, Result.andThen_ok, hg, hbin]
theorem wq_eqP (hw : Region.wanted o (yielded ops a.tmps) = true) (x y : Operand) (ho : o.op = .binOp .eql 35 x y 35) (m n m' n' : Nat) (hx : a.eval x = vR [m, n]) (hy : a.eval y = vR [m', n']) (b : Bool) (hb : ∀ w, (Op.equalIn 10000 35 (vR [m, n]) (vR [m', n'])).run Try.prog w = .ok b w) (h : WQ Try.prog ops (CB w0) Q rest (a.put o.dst (.bool b))) : WQ Try.prog ops (CB w0) Q (o :: rest) a :=
  ⟨qb_val hw _ (fun w _ => exec_eqP x y ho hx hy (hb w)) h.out⟩
theorem wq_neqP (hw : Region.wanted o (yielded ops a.tmps) = true) (x y : Operand) (ho : o.op = .binOp .neq 35 x y 35) (m n m' n' : Nat) (hx : a.eval x = vR [m, n]) (hy : a.eval y = vR [m', n']) (b b' : Bool) (hb : ∀ w, (Op.equalIn 10000 35 (vR [m, n]) (vR [m', n'])).run Try.prog w = .ok b w) (hb' : (!b) = b') (h : WQ Try.prog ops (CB w0) Q rest (a.put o.dst (.bool b'))) : WQ Try.prog ops (CB w0) Q (o :: rest) a :=
  ⟨qb_val hw _ (fun w _ => by rw [← hb']; exact exec_neqP x y ho hx hy (hb w)) h.out⟩
end
theorem run_eq36 (m n : Int) (b : Bool) (hb : (m == n) = b) (w : World) : (binOp .eql 36 (.int .i64 m) (.int .i64 n)).run Try.prog w = .ok (.bool b) w := by
  subst hb
  kernel_rfl
theorem eqP_same (m n : Nat) (w : World) : (Op.equalIn 10000 35 (vR [m, n]) (vR [m, n])).run Try.prog w = .ok true w := by
  have hk : Try.prog.keyTypeAt 3 35 = true := by kernel_rfl
  have hf : ∀ m n, (vR [m, n]).formed Try.prog 35 = true := by
    intro m n
    have hc : Try.prog.cellsOf 35 = 64 := by kernel_rfl
    have hl : (bcs (encs [m, n])).length = 64 := by rw [bcs_len, encs_len]; rfl
    simp [Value.formed, vR, hc, hl]
  obtain ⟨r, hr, hiff⟩ := run_equalIn_deep (P := Try.prog) 9997 3 35 hk w 3 3 _ _ _ _ (hf m n) (hf m n) (keyLits35 m n) (keyLits35 m n)
  rw [hr, hiff.2 rfl]

section
variable {H : Type} {enc : TypeId × Value → H} {P : Program} {w : World} {base : Nat} {spare : Nat → Bool} {held : Bool}
theorem open_cells {n e fuel : Nat} {t : TypeId} {cs : List Value} {x : DataW H × List MemPlace} (ht : P.underlying t = some (.array n e)) (he : P.underlying e = some (.int .u8)) (hce : P.cellsOf e = 1) (hct : P.cellsOf t = n)
    (hf : DataW.trod enc P w base spare held fuel t cs = some x) : ∃ l : List UInt8, l.length = n ∧ cs = bcs l := by
  obtain ⟨xs, m, _, _, hl, hxl, hel⟩ := DataW.trod_array ht hf
  have hcs : ∀ i (hi : i < cs.length), ∃ b : UInt8, cs[i] = bc b := by
    intro i hi
    have h1 := hel i (by omega)
    have hd : (cs.drop (i * P.cellsOf e)).take (P.cellsOf e) = [cs[i]] := by
      rw [hce, Nat.mul_one, List.drop_eq_getElem_cons hi]
      simp only [List.take_succ_cons, List.take_zero]
    rw [hd, List.getElem?_eq_getElem (by omega)] at h1
    obtain ⟨z, e0, _, wz⟩ := DataW.trod_int he h1
    simp only [List.cons.injEq, and_true] at e0
    have hb := bounds_u8 wz
    refine ⟨UInt8.ofNat z.toNat, ?_⟩
    rw [e0]
    unfold bc
    rw [UInt8.toNat_ofNat']
    congr 1
    omega
  refine ⟨cs.map (fun v => match v with | .int _ z => UInt8.ofNat z.toNat | _ => 0), by simp; omega, ?_⟩
  apply List.ext_getElem
  · simp [bcs]
  · intro i h1 h2
    obtain ⟨b, hb⟩ := hcs i h1
    simp only [bcs, List.map_map, List.getElem_map, Function.comp_def, hb]
    simp [bc]
end
/-- A point's numbers that came in. -/
theorem open_pt {H : Type} {enc' : TypeId × Value → H} {w : World} {base b0 : Nat} {spare : Nat → Bool} {held : Bool} {r : Reach} {v : Value} {d : DataW H} {p : List MemPlace}
    (hv : Value.okWide Try.prog w r b0 35 v) (h : DataW.Trod enc' Try.prog w base spare held 35 v d p) : ∃ X Y : Nat, X < TT ∧ Y < TT ∧ v = vR [X, Y] := by
  have ho : ∃ cs, v = .agg cs ∧ cs.size = Try.prog.cellsOf 35 := by
    simp only [Value.okWide, Try.underlying35] at hv
    obtain ⟨cs, h1, h2, _⟩ := hv
    exact ⟨cs, h1, h2⟩
  obtain ⟨cs, rfl, hsz⟩ := ho
  obtain ⟨fuel, hf⟩ := h
  obtain ⟨y0, y1, n, _, hl, h0, h1⟩ := Go.ChangeShapes.trod_struct2 Try.underlying35 hf
  obtain ⟨l0, n0, e0⟩ := open_cells under23 Try.underlying5 (by kernel_rfl) (by kernel_rfl) h0
  obtain ⟨l1, n1, e1⟩ := open_cells under23 Try.underlying5 (by kernel_rfl) (by kernel_rfl) h1
  have h23 : Try.prog.cellsOf 23 = 32 := by kernel_rfl
  have h35 : Try.prog.cellsOf 35 = 64 := by kernel_rfl
  refine ⟨nv l0, nv l1, nv_lt l0, nv_lt l1, ?_⟩
  unfold vR
  rw [encs, encs_one, enc_nv l0 n0, enc_nv l1 n1, bcs_append, ← e0, ← e1]
  congr 1
  apply Array.toList_inj.1
  show cs.toList = (cs.toList.drop 0).take (Try.prog.cellsOf 23) ++ (cs.toList.drop 32).take (Try.prog.cellsOf 23)
  rw [h23, List.drop_zero]
  have hlen : cs.toList.length = 64 := by rw [Array.length_toList, hsz, h35]
  rw [List.take_of_length_le (l := cs.toList.drop 32) (by rw [List.length_drop]; omega), List.take_append_drop]
end Go.Proofs.Ytgdimnbdnepbgaa
/- Two multiples in one loop. No statement is proved here. -/
namespace Go.Proofs.Ytgdimnbdnepbgaa
open Go.RowKit
set_option linter.unusedVariables false
set_option maxRecDepth 40000
set_option linter.unusedSimpArgs false

theorem wq_nilc {P : Program} {ops : Array Oper} {rest : List Oper} {o : Oper} {a : Act} {w0 : World} {Q : Act → Prop} (hw : Region.wanted o (yielded ops a.tmps) = true) (x : Operand) (ho : o.op = .nilCheck x) (A : Addr) (hx : a.eval x = .pointer (some A)) (h : WQ P ops (CB w0) Q rest (a.put o.dst (.pointer (some A)))) : WQ P ops (CB w0) Q (o :: rest) a :=
  ⟨qb_val hw _ (fun w _ => exec_nil x ho A hx) h.out⟩
theorem run_eq102 (a b c d : Bool) (w : World) : (binOp .eql 102 (.agg #[.bool a, .bool b]) (.agg #[.bool c, .bool d])).run Try.prog w = .ok (.bool ((a == c) && (b == d))) w := by
  cases a <;> cases b <;> cases c <;> cases d <;> kernel_rfl
theorem exec_eq102 {o : Oper} {act : Act} {w : World} (x y : Operand) (ho : o.op = .binOp .eql 102 x y 102) (a b c d r : Bool) (hx : act.eval x = .agg #[.bool a, .bool b]) (hy : act.eval y = .agg #[.bool c, .bool d]) (hr : ((a == c) && (b == d)) = r) : (execOp act.eval o).run Try.prog w = .ok (.value (.bool r)) w := by
  have hg : (eqGuard .eql 102 x y (.agg #[.bool a, .bool b]) (.agg #[.bool c, .bool d])).run Try.prog w = .ok () w := run_eqGuard_agg w .eql 102 x y _ _ Try.eqGuardType102
  unfold execOp
  simp only [ho, hx, hy, Sem.run_bind, Sem.run_pure, Result.andThen_ok, hg, run_eq102, hr]
theorem eread_zero (r0 r1 r2 r3 : Nat) (w : World) (g g1 : Nat) (h0 : RAt w g [r0, r1, r2, r3]) (h1 : RAt w g1 [0, 1]) (n1 : g ≠ g1) :
    Calls Try.prog 80 #[.pointer (some ⟨g, 0, none⟩), .pointer (some ⟨g1, 0, none⟩)] w (SetsR g (X4.of EC.zero).l w) := by
  have h := eread_any 0 1 r0 r1 r2 r3 w g g1 h0 (by rw [v0, v1]; exact h1) n1
  rw [of_l]
  exact h

set_option maxHeartbeats 8000000 in
theorem mul2_any (P Q : EC.Pt) (xp xq R0 : X4) (a b : Nat) (w : World) (g ga gp gb gq : Nat) (HPI : Hid (xp.IsP P)) (HQI : Hid (xq.IsP Q)) (HaT : Hid (a < TT)) (HbT : Hid (b < TT))
    (HG0 : Hid (RAt w g R0.l)) (HA0 : Hid (RAt w ga [a])) (HP0 : Hid (RAt w gp xp.l)) (HB0 : Hid (RAt w gb [b])) (HQ0 : Hid (RAt w gq xq.l))
    (NHA : Hid (ga ≠ g)) (NHP : Hid (gp ≠ g)) (NHB : Hid (gb ≠ g)) (NHQ : Hid (gq ≠ g)) :
    Calls Try.prog 88 #[.pointer (some ⟨g, 0, none⟩), .pointer (some ⟨ga, 0, none⟩), .pointer (some ⟨gp, 0, none⟩), .pointer (some ⟨gb, 0, none⟩), .pointer (some ⟨gq, 0, none⟩)] w (fun e w' => ∃ R : X4, R.IsP (EC.two P Q a b 0) ∧ SetsR g R.l w e w') := by
  go_enter Try.func88, Try.ntmps88
  go_wp2_with (first | ((with_reducible show wpList _ _ _ (⟨some 10, .alloc 76, _, _, _, _⟩ :: _) _ _); go_must (refine wpList_alloc_row rfl 76 rfl (.agg (zbs 128)) zero76 ?_; intro w1 h1 z1 g1; have HX1 : Hid (RAt w1 w.heap.size [0, 0, 0, 0]) := Lib.hid (zrow (k := 4) h1); have G1 := Lib.hid g1; clear h1 z1 g1)) | fail)
  have HG1 := Lib.hid (HG0.out.grown G1.out (by simp))
  have HA1 := Lib.hid (HA0.out.grown G1.out (by simp))
  have HP1 := Lib.hid (HP0.out.grown G1.out (by simp))
  have HB1 := Lib.hid (HB0.out.grown G1.out (by simp))
  have HQ1 := Lib.hid (HQ0.out.grown G1.out (by simp))
  have HK1 : Hid (Keeps (· = g) w w1) := Lib.hid ((Keeps.refl _ _).alloc G1.out)
  have NHX : Hid (w.heap.size ≠ g) := Lib.hid (by have := HG0.out.lt; omega)
  have XHG : Hid (g ≠ w.heap.size) := Lib.hid (by have := HG0.out.lt; omega)
  have XHA : Hid (ga ≠ w.heap.size) := Lib.hid (by have := HA0.out.lt; omega)
  have XHP : Hid (gp ≠ w.heap.size) := Lib.hid (by have := HP0.out.lt; omega)
  have XHB : Hid (gb ≠ w.heap.size) := Lib.hid (by have := HB0.out.lt; omega)
  have XHQ : Hid (gq ≠ w.heap.size) := Lib.hid (by have := HQ0.out.lt; omega)
  have HS : Hid (w.heap.size ≤ w.heap.size) := Lib.hid (Nat.le_refl _)
  clear HG0 HA0 HP0 HB0 HQ0 G1
  obtain ⟨xb, hxb⟩ : ∃ x, x = xp.sum xq := ⟨_, rfl⟩
  have HXI : Hid (xb.IsP (EC.add P Q)) := Lib.hid (by rw [hxb]; exact HPI.out.add HQI.out)
  refine (eadd_any xp xq 0 0 0 0 _ w.heap.size gp gq HX1.out HP1.out HQ1.out).mono ?_
  rintro e w2 ⟨rfl, hr, hk⟩
  rw [← hxb] at hr
  clear hxb
  have HX2 := Lib.hid hr
  have HG2 := Lib.hid (HG1.out.keeps hk (by have := XHG.out; show ¬ _ = _; omega))
  have HA2 := Lib.hid (HA1.out.keeps hk (by have := XHA.out; show ¬ _ = _; omega))
  have HP2 := Lib.hid (HP1.out.keeps hk (by have := XHP.out; show ¬ _ = _; omega))
  have HB2 := Lib.hid (HB1.out.keeps hk (by have := XHB.out; show ¬ _ = _; omega))
  have HQ2 := Lib.hid (HQ1.out.keeps hk (by have := XHQ.out; show ¬ _ = _; omega))
  have HK2 := Lib.hid (HK1.out.method hk HS.out)
  clear hr hk
  clear HG1 HA1 HP1 HB1 HQ1 HX1 HK1
  go_wp2_with fail
  refine (Zero_any _).mono ?_
  rintro e w3 ⟨rfl, hb⟩
  have HG3 := Lib.hid (HG2.out.keep hb)
  have HA3 := Lib.hid (HA2.out.keep hb)
  have HP3 := Lib.hid (HP2.out.keep hb)
  have HB3 := Lib.hid (HB2.out.keep hb)
  have HQ3 := Lib.hid (HQ2.out.keep hb)
  have HX3 := Lib.hid (HX2.out.keep hb)
  have HK3 := Lib.hid (HK2.out.call hb)
  clear hb
  clear HG2 HA2 HP2 HB2 HQ2 HX2 HK2
  go_wp2_with (first | ((with_reducible show wpList _ _ _ (⟨some 11, .alloc 35, _, _, _, _⟩ :: _) _ _); go_must (refine wpList_alloc_row rfl 35 rfl (.agg (zbs 64)) zero35 ?_; intro w4 h1 z1 g1; have R4 : Hid (RAt w4 w3.heap.size [0, 0]) := Lib.hid (zrow (k := 2) h1); have G4 := Lib.hid g1; clear h1 z1 g1)) | ((with_reducible show wpList _ _ _ (⟨none, .store 35 (.tmp 11) (.tmp 16), _, _, _, _⟩ :: _) _ _); go_must (refine wpList_storeP rfl (.tmp 11) (.tmp 16) rfl (w3.heap.size) [0, 0] 0 1 rfl rfl R4.out rfl ?_; intro w5 hr5 hg5 hz5; have HZ5 := Lib.hid hr5; have G5 := Lib.hid hg5; clear hr5 hg5 hz5)) | fail)
  have HG5 := Lib.hid ((HG3.out.grown G4.out (by simp)).grown G5.out (by have := HG3.out.lt; simp; omega))
  have HA5 := Lib.hid ((HA3.out.grown G4.out (by simp)).grown G5.out (by have := HA3.out.lt; simp; omega))
  have HP5 := Lib.hid ((HP3.out.grown G4.out (by simp)).grown G5.out (by have := HP3.out.lt; simp; omega))
  have HB5 := Lib.hid ((HB3.out.grown G4.out (by simp)).grown G5.out (by have := HB3.out.lt; simp; omega))
  have HQ5 := Lib.hid ((HQ3.out.grown G4.out (by simp)).grown G5.out (by have := HQ3.out.lt; simp; omega))
  have HX5 := Lib.hid ((HX3.out.grown G4.out (by simp)).grown G5.out (by have := HX3.out.lt; simp; omega))
  have HK5 := Lib.hid ((HK3.out.alloc G4.out).newrow G5.out HK3.out.size)
  have HNZ : Hid (g ≠ w3.heap.size) := Lib.hid (by have := HG3.out.lt; omega)
  clear G4 G5 R4
  clear HG3 HA3 HP3 HB3 HQ3 HX3 HK3
  generalize w3.heap.size = gz at *
  skip
  refine (eread_zero _ _ _ _ _ g gz HG5.out HZ5.out HNZ.out).mono ?_
  rintro e w6 ⟨rfl, hr, hk⟩
  have HA6 := Lib.hid (HA5.out.keeps hk (by have := NHA.out; show ¬ _ = _; omega))
  have HP6 := Lib.hid (HP5.out.keeps hk (by have := NHP.out; show ¬ _ = _; omega))
  have HB6 := Lib.hid (HB5.out.keeps hk (by have := NHB.out; show ¬ _ = _; omega))
  have HQ6 := Lib.hid (HQ5.out.keeps hk (by have := NHQ.out; show ¬ _ = _; omega))
  have HX6 := Lib.hid (HX5.out.keeps hk (by have := NHX.out; show ¬ _ = _; omega))
  have HG6 := Lib.hid hr
  have HK6 := Lib.hid (HK5.out.trans hk)
  clear hr hk HZ5 HNZ
  clear HG5 HA5 HP5 HB5 HQ5 HX5 HK5
  go_wp2_with fail
  refine (highest_core a b ga gb _ HA6 HB6 (Lib.hid ⟨Nat.le_refl _, Nat.div_eq_of_lt HaT.out, Nat.div_eq_of_lt HbT.out⟩) (Lib.hid fun i hi w => Bit_any a i HaT.out hi w) (Lib.hid fun i hi w => Bit_any b i HbT.out hi w)).mono ?_
  rintro e w7 ⟨j, hj, rfl, hb⟩
  have HG7 := Lib.hid (HG6.out.keep hb)
  have HA7 := Lib.hid (HA6.out.keep hb)
  have HP7 := Lib.hid (HP6.out.keep hb)
  have HB7 := Lib.hid (HB6.out.keep hb)
  have HQ7 := Lib.hid (HQ6.out.keep hb)
  have HX7 := Lib.hid (HX6.out.keep hb)
  have HK7 := Lib.hid (HK6.out.call hb)
  have HJ := Lib.hid hj
  clear hb hj
  clear HG6 HA6 HP6 HB6 HQ6 HX6 HK6
  go_wp2_with fail
  go_loopw [12] (fun k wr => ∃ (j : Nat) (R : X4), j ≤ 256 ∧ k = .int .i64 ((j : Int) - 1) ∧ R.IsP (EC.two P Q a b j) ∧ RAt wr g R.l ∧ RAt wr ga [a] ∧ RAt wr gp xp.l ∧ RAt wr gb [b] ∧ RAt wr gq xq.l ∧ RAt wr w.heap.size xb.l ∧ Keeps (· = g) w wr) (fun k _ => ((intOf k) + 1).toNat)
  case atStart =>
    obtain ⟨h1, h2, h3⟩ := HJ.out
    refine ⟨j, X4.of EC.zero, h1, rfl, ?_, HG7.out, HA7.out, HP7.out, HB7.out, HQ7.out, HX7.out, HK7.out⟩
    have e : EC.two P Q a b j = EC.zero := by
      unfold Ed.two
      rw [h2, h3]
      exact EC.add_zero _
    rw [e]
    exact X4.IsP.of _
  case round =>
    obtain ⟨j, R, hj, rfl, hi, h1, h2, h3, h4, h5, h6, h7⟩ := hrel
    have HI := Lib.hid hi
    have HG := Lib.hid h1
    have HA := Lib.hid h2
    have HP := Lib.hid h3
    have HB := Lib.hid h4
    have HQ := Lib.hid h5
    have HX := Lib.hid h6
    have HK := Lib.hid h7
    clear hi h1 h2 h3 h4 h5 h6 h7 HJ HG7 HA7 HP7 HB7 HQ7 HX7 HK7
    by_cases h0 : j = 0
    · subst h0
      go_wp2_with fail
      refine bodyPost_end (results_none rfl _ _ _) rfl ?_
      exact ⟨R, HI.out, rfl, HG.out, HK.out⟩
    · obtain ⟨i, rfl⟩ : ∃ i, j = i + 1 := ⟨j - 1, by omega⟩
      rw [show ((i + 1 : Nat) : Int) - 1 = (i : Int) from by omega]
      have hii : (0 : Int) ≤ (i : Int) := by omega
      have hib : (i : Int) < 256 := by omega
      go_wp2_with fail
      refine (edouble_any R _ _ _ _ _ g g HG.out HG.out).mono ?_
      rintro e y0 ⟨rfl, hr, hk⟩
      have HA2 := Lib.hid (HA.out.keeps hk (by have := NHA.out; show ¬ _ = _; omega))
      have HP2 := Lib.hid (HP.out.keeps hk (by have := NHP.out; show ¬ _ = _; omega))
      have HB2 := Lib.hid (HB.out.keeps hk (by have := NHB.out; show ¬ _ = _; omega))
      have HQ2 := Lib.hid (HQ.out.keeps hk (by have := NHQ.out; show ¬ _ = _; omega))
      have HX2 := Lib.hid (HX.out.keeps hk (by have := NHX.out; show ¬ _ = _; omega))
      have HG2 := Lib.hid hr
      have HK2 := Lib.hid (HK.out.trans hk)
      clear hr hk HG HA HP HB HQ HX HK
      go_wp2_with fail
      by_cases ea : a / 2 ^ i % 2 = 1
      · by_cases eb : b / 2 ^ i % 2 = 1
        · have HBA : Hid (∀ w, Calls Try.prog 103 #[vN a, .int .i64 (i : Nat)] w (Gives (.bool true) w)) := Lib.hid fun w => by have h := Bit_any a i HaT.out (by omega) w; rw [decide_eq_true ea] at h; exact h
          have HBB : Hid (∀ w, Calls Try.prog 103 #[vN b, .int .i64 (i : Nat)] w (Gives (.bool true) w)) := Lib.hid fun w => by have h := Bit_any b i HbT.out (by omega) w; rw [decide_eq_true eb] at h; exact h
          refine region_wq (by kernel_rfl) (by kernel_rfl) ?_
          refine wq_move rfl (.tmp 1) rfl (.pointer (some ⟨ga, 0, none⟩)) rfl ?_
          simp only [Act.put, zA, zB, zC]
          refine wq_nilc rfl (.tmp 29) rfl _ rfl ?_
          simp only [Act.put, zA, zB, zC]
          refine wq_loadF rfl (.tmp 30) rfl (ga) 0 0 rfl [a] a rfl HA2.out rfl ?_
          simp only [Act.put, zA, zB, zC]
          refine wq_move rfl (.tmp 12) rfl (.int .i64 (i : Nat)) rfl ?_
          simp only [Act.put, zA, zB, zC]
          refine wq_call rfl 103 [.tmp 31, .tmp 32] #[23, 3] rfl [vN a, .int .i64 (i : Nat)] rfl (CG103 _) (.bool true) HBA.out ?_
          simp only [Act.put, zA, zB, zC]
          refine wq_move rfl (.tmp 3) rfl (.pointer (some ⟨gb, 0, none⟩)) rfl ?_
          simp only [Act.put, zA, zB, zC]
          refine wq_nilc rfl (.tmp 34) rfl _ rfl ?_
          simp only [Act.put, zA, zB, zC]
          refine wq_loadF rfl (.tmp 35) rfl (gb) 0 0 rfl [b] b rfl HB2.out rfl ?_
          simp only [Act.put, zA, zB, zC]
          refine wq_move rfl (.tmp 12) rfl (.int .i64 (i : Nat)) rfl ?_
          simp only [Act.put, zA, zB, zC]
          refine wq_call rfl 103 [.tmp 36, .tmp 37] #[23, 3] rfl [vN b, .int .i64 (i : Nat)] rfl (CG103 _) (.bool true) HBB.out ?_
          simp only [Act.put, zA, zB, zC]
          refine wq_buildc rfl 102 _ (.agg #[.bool true, .bool true]) rfl (fun w => by kernel_rfl) ?_
          simp only [Act.put, zA, zB, zC]
          refine wq_nil ?_
          intro W hb
          have HG3 := Lib.hid (HG2.out.keep hb)
          have HA3 := Lib.hid (HA2.out.keep hb)
          have HP3 := Lib.hid (HP2.out.keep hb)
          have HB3 := Lib.hid (HB2.out.keep hb)
          have HQ3 := Lib.hid (HQ2.out.keep hb)
          have HX3 := Lib.hid (HX2.out.keep hb)
          have HK3 := Lib.hid (HK2.out.call hb)
          clear hb HBA HBB
          clear HG2 HA2 HP2 HB2 HQ2 HX2 HK2
          go_wp2_with (first | ((with_reducible show wpList _ _ _ (⟨_, .build 102 #[(0, .const (.bool true)), (1, .const (.bool true))], _, _, _, _⟩ :: _) _ _); go_must (refine wpList_exec rfl (.agg #[.bool true, .bool true]) (exec_buildc rfl (by kernel_rfl)) ?_)) | ((with_reducible show wpList _ _ _ (⟨_, .binOp .eql 102 (.tmp 39) (.tmp 41) 102, _, _, _, _⟩ :: _) _ _); go_must (refine wpList_exec rfl (.bool true) (exec_eq102 (.tmp 39) (.tmp 41) rfl true true true true true rfl rfl rfl) ?_)) | fail)
          refine (eadd_any R.dbl xb _ _ _ _ _ g g w.heap.size HG3.out HG3.out HX3.out).mono ?_
          rintro e y1 ⟨rfl, hr, hk⟩
          have HA4 := Lib.hid (HA3.out.keeps hk (by have := NHA.out; show ¬ _ = _; omega))
          have HP4 := Lib.hid (HP3.out.keeps hk (by have := NHP.out; show ¬ _ = _; omega))
          have HB4 := Lib.hid (HB3.out.keeps hk (by have := NHB.out; show ¬ _ = _; omega))
          have HQ4 := Lib.hid (HQ3.out.keeps hk (by have := NHQ.out; show ¬ _ = _; omega))
          have HX4 := Lib.hid (HX3.out.keeps hk (by have := NHX.out; show ¬ _ = _; omega))
          have HG4 := Lib.hid hr
          have HK4 := Lib.hid (HK3.out.trans hk)
          clear hr hk
          clear HG3 HA3 HP3 HB3 HQ3 HX3 HK3
          go_wp2_with fail
          have hd := HI.out.dbl
          refine ⟨⟨i, R.dbl.sum xb, by omega, by go_num, by rw [EC.two_step, ea, eb, EC.sm_one, EC.sm_one]; exact (hd.add HXI.out), HG4.out, HA4.out, HP4.out, HB4.out, HQ4.out, HX4.out, HK4.out⟩, by simp [intOf]⟩
        · have HBA : Hid (∀ w, Calls Try.prog 103 #[vN a, .int .i64 (i : Nat)] w (Gives (.bool true) w)) := Lib.hid fun w => by have h := Bit_any a i HaT.out (by omega) w; rw [decide_eq_true ea] at h; exact h
          have HBB : Hid (∀ w, Calls Try.prog 103 #[vN b, .int .i64 (i : Nat)] w (Gives (.bool false) w)) := Lib.hid fun w => by have h := Bit_any b i HbT.out (by omega) w; rw [decide_eq_false eb] at h; exact h
          refine region_wq (by kernel_rfl) (by kernel_rfl) ?_
          refine wq_move rfl (.tmp 1) rfl (.pointer (some ⟨ga, 0, none⟩)) rfl ?_
          simp only [Act.put, zA, zB, zC]
          refine wq_nilc rfl (.tmp 29) rfl _ rfl ?_
          simp only [Act.put, zA, zB, zC]
          refine wq_loadF rfl (.tmp 30) rfl (ga) 0 0 rfl [a] a rfl HA2.out rfl ?_
          simp only [Act.put, zA, zB, zC]
          refine wq_move rfl (.tmp 12) rfl (.int .i64 (i : Nat)) rfl ?_
          simp only [Act.put, zA, zB, zC]
          refine wq_call rfl 103 [.tmp 31, .tmp 32] #[23, 3] rfl [vN a, .int .i64 (i : Nat)] rfl (CG103 _) (.bool true) HBA.out ?_
          simp only [Act.put, zA, zB, zC]
          refine wq_move rfl (.tmp 3) rfl (.pointer (some ⟨gb, 0, none⟩)) rfl ?_
          simp only [Act.put, zA, zB, zC]
          refine wq_nilc rfl (.tmp 34) rfl _ rfl ?_
          simp only [Act.put, zA, zB, zC]
          refine wq_loadF rfl (.tmp 35) rfl (gb) 0 0 rfl [b] b rfl HB2.out rfl ?_
          simp only [Act.put, zA, zB, zC]
          refine wq_move rfl (.tmp 12) rfl (.int .i64 (i : Nat)) rfl ?_
          simp only [Act.put, zA, zB, zC]
          refine wq_call rfl 103 [.tmp 36, .tmp 37] #[23, 3] rfl [vN b, .int .i64 (i : Nat)] rfl (CG103 _) (.bool false) HBB.out ?_
          simp only [Act.put, zA, zB, zC]
          refine wq_buildc rfl 102 _ (.agg #[.bool true, .bool false]) rfl (fun w => by kernel_rfl) ?_
          simp only [Act.put, zA, zB, zC]
          refine wq_nil ?_
          intro W hb
          have HG3 := Lib.hid (HG2.out.keep hb)
          have HA3 := Lib.hid (HA2.out.keep hb)
          have HP3 := Lib.hid (HP2.out.keep hb)
          have HB3 := Lib.hid (HB2.out.keep hb)
          have HQ3 := Lib.hid (HQ2.out.keep hb)
          have HX3 := Lib.hid (HX2.out.keep hb)
          have HK3 := Lib.hid (HK2.out.call hb)
          clear hb HBA HBB
          clear HG2 HA2 HP2 HB2 HQ2 HX2 HK2
          go_wp2_with (first | ((with_reducible show wpList _ _ _ (⟨_, .build 102 #[(0, .const (.bool true)), (1, .const (.bool true))], _, _, _, _⟩ :: _) _ _); go_must (refine wpList_exec rfl (.agg #[.bool true, .bool true]) (exec_buildc rfl (by kernel_rfl)) ?_)) | ((with_reducible show wpList _ _ _ (⟨_, .binOp .eql 102 (.tmp 39) (.tmp 41) 102, _, _, _, _⟩ :: _) _ _); go_must (refine wpList_exec rfl (.bool false) (exec_eq102 (.tmp 39) (.tmp 41) rfl true false true true false rfl rfl rfl) ?_)) | ((with_reducible show wpList _ _ _ (⟨_, .build 102 #[(0, .const (.bool true)), (1, .const (.bool false))], _, _, _, _⟩ :: _) _ _); go_must (refine wpList_exec rfl (.agg #[.bool true, .bool false]) (exec_buildc rfl (by kernel_rfl)) ?_)) | ((with_reducible show wpList _ _ _ (⟨_, .binOp .eql 102 (.tmp 39) (.tmp 47) 102, _, _, _, _⟩ :: _) _ _); go_must (refine wpList_exec rfl (.bool true) (exec_eq102 (.tmp 39) (.tmp 47) rfl true false true false true rfl rfl rfl) ?_)) | fail)
          refine (eadd_any R.dbl xp _ _ _ _ _ g g gp HG3.out HG3.out HP3.out).mono ?_
          rintro e y1 ⟨rfl, hr, hk⟩
          have HA4 := Lib.hid (HA3.out.keeps hk (by have := NHA.out; show ¬ _ = _; omega))
          have HP4 := Lib.hid (HP3.out.keeps hk (by have := NHP.out; show ¬ _ = _; omega))
          have HB4 := Lib.hid (HB3.out.keeps hk (by have := NHB.out; show ¬ _ = _; omega))
          have HQ4 := Lib.hid (HQ3.out.keeps hk (by have := NHQ.out; show ¬ _ = _; omega))
          have HX4 := Lib.hid (HX3.out.keeps hk (by have := NHX.out; show ¬ _ = _; omega))
          have HG4 := Lib.hid hr
          have HK4 := Lib.hid (HK3.out.trans hk)
          clear hr hk
          clear HG3 HA3 HP3 HB3 HQ3 HX3 HK3
          go_wp2_with fail
          have eb0 : b / 2 ^ i % 2 = 0 := by omega
          have hd := HI.out.dbl
          refine ⟨⟨i, R.dbl.sum xp, by omega, by go_num, by rw [EC.two_step, ea, eb0, EC.sm_one, show EC.sm Q 0 = EC.zero from rfl, EC.add_zero]; exact (hd.add HPI.out), HG4.out, HA4.out, HP4.out, HB4.out, HQ4.out, HX4.out, HK4.out⟩, by simp [intOf]⟩
      · by_cases eb : b / 2 ^ i % 2 = 1
        · have HBA : Hid (∀ w, Calls Try.prog 103 #[vN a, .int .i64 (i : Nat)] w (Gives (.bool false) w)) := Lib.hid fun w => by have h := Bit_any a i HaT.out (by omega) w; rw [decide_eq_false ea] at h; exact h
          have HBB : Hid (∀ w, Calls Try.prog 103 #[vN b, .int .i64 (i : Nat)] w (Gives (.bool true) w)) := Lib.hid fun w => by have h := Bit_any b i HbT.out (by omega) w; rw [decide_eq_true eb] at h; exact h
          refine region_wq (by kernel_rfl) (by kernel_rfl) ?_
          refine wq_move rfl (.tmp 1) rfl (.pointer (some ⟨ga, 0, none⟩)) rfl ?_
          simp only [Act.put, zA, zB, zC]
          refine wq_nilc rfl (.tmp 29) rfl _ rfl ?_
          simp only [Act.put, zA, zB, zC]
          refine wq_loadF rfl (.tmp 30) rfl (ga) 0 0 rfl [a] a rfl HA2.out rfl ?_
          simp only [Act.put, zA, zB, zC]
          refine wq_move rfl (.tmp 12) rfl (.int .i64 (i : Nat)) rfl ?_
          simp only [Act.put, zA, zB, zC]
          refine wq_call rfl 103 [.tmp 31, .tmp 32] #[23, 3] rfl [vN a, .int .i64 (i : Nat)] rfl (CG103 _) (.bool false) HBA.out ?_
          simp only [Act.put, zA, zB, zC]
          refine wq_move rfl (.tmp 3) rfl (.pointer (some ⟨gb, 0, none⟩)) rfl ?_
          simp only [Act.put, zA, zB, zC]
          refine wq_nilc rfl (.tmp 34) rfl _ rfl ?_
          simp only [Act.put, zA, zB, zC]
          refine wq_loadF rfl (.tmp 35) rfl (gb) 0 0 rfl [b] b rfl HB2.out rfl ?_
          simp only [Act.put, zA, zB, zC]
          refine wq_move rfl (.tmp 12) rfl (.int .i64 (i : Nat)) rfl ?_
          simp only [Act.put, zA, zB, zC]
          refine wq_call rfl 103 [.tmp 36, .tmp 37] #[23, 3] rfl [vN b, .int .i64 (i : Nat)] rfl (CG103 _) (.bool true) HBB.out ?_
          simp only [Act.put, zA, zB, zC]
          refine wq_buildc rfl 102 _ (.agg #[.bool false, .bool true]) rfl (fun w => by kernel_rfl) ?_
          simp only [Act.put, zA, zB, zC]
          refine wq_nil ?_
          intro W hb
          have HG3 := Lib.hid (HG2.out.keep hb)
          have HA3 := Lib.hid (HA2.out.keep hb)
          have HP3 := Lib.hid (HP2.out.keep hb)
          have HB3 := Lib.hid (HB2.out.keep hb)
          have HQ3 := Lib.hid (HQ2.out.keep hb)
          have HX3 := Lib.hid (HX2.out.keep hb)
          have HK3 := Lib.hid (HK2.out.call hb)
          clear hb HBA HBB
          clear HG2 HA2 HP2 HB2 HQ2 HX2 HK2
          go_wp2_with (first | ((with_reducible show wpList _ _ _ (⟨_, .build 102 #[(0, .const (.bool true)), (1, .const (.bool true))], _, _, _, _⟩ :: _) _ _); go_must (refine wpList_exec rfl (.agg #[.bool true, .bool true]) (exec_buildc rfl (by kernel_rfl)) ?_)) | ((with_reducible show wpList _ _ _ (⟨_, .binOp .eql 102 (.tmp 39) (.tmp 41) 102, _, _, _, _⟩ :: _) _ _); go_must (refine wpList_exec rfl (.bool false) (exec_eq102 (.tmp 39) (.tmp 41) rfl false true true true false rfl rfl rfl) ?_)) | ((with_reducible show wpList _ _ _ (⟨_, .build 102 #[(0, .const (.bool true)), (1, .const (.bool false))], _, _, _, _⟩ :: _) _ _); go_must (refine wpList_exec rfl (.agg #[.bool true, .bool false]) (exec_buildc rfl (by kernel_rfl)) ?_)) | ((with_reducible show wpList _ _ _ (⟨_, .binOp .eql 102 (.tmp 39) (.tmp 47) 102, _, _, _, _⟩ :: _) _ _); go_must (refine wpList_exec rfl (.bool false) (exec_eq102 (.tmp 39) (.tmp 47) rfl false true true false false rfl rfl rfl) ?_)) | ((with_reducible show wpList _ _ _ (⟨_, .build 102 #[(0, .const (.bool false)), (1, .const (.bool true))], _, _, _, _⟩ :: _) _ _); go_must (refine wpList_exec rfl (.agg #[.bool false, .bool true]) (exec_buildc rfl (by kernel_rfl)) ?_)) | ((with_reducible show wpList _ _ _ (⟨_, .binOp .eql 102 (.tmp 39) (.tmp 54) 102, _, _, _, _⟩ :: _) _ _); go_must (refine wpList_exec rfl (.bool true) (exec_eq102 (.tmp 39) (.tmp 54) rfl false true false true true rfl rfl rfl) ?_)) | fail)
          refine (eadd_any R.dbl xq _ _ _ _ _ g g gq HG3.out HG3.out HQ3.out).mono ?_
          rintro e y1 ⟨rfl, hr, hk⟩
          have HA4 := Lib.hid (HA3.out.keeps hk (by have := NHA.out; show ¬ _ = _; omega))
          have HP4 := Lib.hid (HP3.out.keeps hk (by have := NHP.out; show ¬ _ = _; omega))
          have HB4 := Lib.hid (HB3.out.keeps hk (by have := NHB.out; show ¬ _ = _; omega))
          have HQ4 := Lib.hid (HQ3.out.keeps hk (by have := NHQ.out; show ¬ _ = _; omega))
          have HX4 := Lib.hid (HX3.out.keeps hk (by have := NHX.out; show ¬ _ = _; omega))
          have HG4 := Lib.hid hr
          have HK4 := Lib.hid (HK3.out.trans hk)
          clear hr hk
          clear HG3 HA3 HP3 HB3 HQ3 HX3 HK3
          go_wp2_with fail
          have ea0 : a / 2 ^ i % 2 = 0 := by omega
          have hd := HI.out.dbl
          refine ⟨⟨i, R.dbl.sum xq, by omega, by go_num, by rw [EC.two_step, ea0, eb, EC.sm_one, show EC.sm P 0 = EC.zero from rfl, EC.zero_add]; exact (hd.add HQI.out), HG4.out, HA4.out, HP4.out, HB4.out, HQ4.out, HX4.out, HK4.out⟩, by simp [intOf]⟩
        · have HBA : Hid (∀ w, Calls Try.prog 103 #[vN a, .int .i64 (i : Nat)] w (Gives (.bool false) w)) := Lib.hid fun w => by have h := Bit_any a i HaT.out (by omega) w; rw [decide_eq_false ea] at h; exact h
          have HBB : Hid (∀ w, Calls Try.prog 103 #[vN b, .int .i64 (i : Nat)] w (Gives (.bool false) w)) := Lib.hid fun w => by have h := Bit_any b i HbT.out (by omega) w; rw [decide_eq_false eb] at h; exact h
          refine region_wq (by kernel_rfl) (by kernel_rfl) ?_
          refine wq_move rfl (.tmp 1) rfl (.pointer (some ⟨ga, 0, none⟩)) rfl ?_
          simp only [Act.put, zA, zB, zC]
          refine wq_nilc rfl (.tmp 29) rfl _ rfl ?_
          simp only [Act.put, zA, zB, zC]
          refine wq_loadF rfl (.tmp 30) rfl (ga) 0 0 rfl [a] a rfl HA2.out rfl ?_
          simp only [Act.put, zA, zB, zC]
          refine wq_move rfl (.tmp 12) rfl (.int .i64 (i : Nat)) rfl ?_
          simp only [Act.put, zA, zB, zC]
          refine wq_call rfl 103 [.tmp 31, .tmp 32] #[23, 3] rfl [vN a, .int .i64 (i : Nat)] rfl (CG103 _) (.bool false) HBA.out ?_
          simp only [Act.put, zA, zB, zC]
          refine wq_move rfl (.tmp 3) rfl (.pointer (some ⟨gb, 0, none⟩)) rfl ?_
          simp only [Act.put, zA, zB, zC]
          refine wq_nilc rfl (.tmp 34) rfl _ rfl ?_
          simp only [Act.put, zA, zB, zC]
          refine wq_loadF rfl (.tmp 35) rfl (gb) 0 0 rfl [b] b rfl HB2.out rfl ?_
          simp only [Act.put, zA, zB, zC]
          refine wq_move rfl (.tmp 12) rfl (.int .i64 (i : Nat)) rfl ?_
          simp only [Act.put, zA, zB, zC]
          refine wq_call rfl 103 [.tmp 36, .tmp 37] #[23, 3] rfl [vN b, .int .i64 (i : Nat)] rfl (CG103 _) (.bool false) HBB.out ?_
          simp only [Act.put, zA, zB, zC]
          refine wq_buildc rfl 102 _ (.agg #[.bool false, .bool false]) rfl (fun w => by kernel_rfl) ?_
          simp only [Act.put, zA, zB, zC]
          refine wq_nil ?_
          intro W hb
          have HG3 := Lib.hid (HG2.out.keep hb)
          have HA3 := Lib.hid (HA2.out.keep hb)
          have HP3 := Lib.hid (HP2.out.keep hb)
          have HB3 := Lib.hid (HB2.out.keep hb)
          have HQ3 := Lib.hid (HQ2.out.keep hb)
          have HX3 := Lib.hid (HX2.out.keep hb)
          have HK3 := Lib.hid (HK2.out.call hb)
          clear hb HBA HBB
          clear HG2 HA2 HP2 HB2 HQ2 HX2 HK2
          go_wp2_with (first | ((with_reducible show wpList _ _ _ (⟨_, .build 102 #[(0, .const (.bool true)), (1, .const (.bool true))], _, _, _, _⟩ :: _) _ _); go_must (refine wpList_exec rfl (.agg #[.bool true, .bool true]) (exec_buildc rfl (by kernel_rfl)) ?_)) | ((with_reducible show wpList _ _ _ (⟨_, .binOp .eql 102 (.tmp 39) (.tmp 41) 102, _, _, _, _⟩ :: _) _ _); go_must (refine wpList_exec rfl (.bool false) (exec_eq102 (.tmp 39) (.tmp 41) rfl false false true true false rfl rfl rfl) ?_)) | ((with_reducible show wpList _ _ _ (⟨_, .build 102 #[(0, .const (.bool true)), (1, .const (.bool false))], _, _, _, _⟩ :: _) _ _); go_must (refine wpList_exec rfl (.agg #[.bool true, .bool false]) (exec_buildc rfl (by kernel_rfl)) ?_)) | ((with_reducible show wpList _ _ _ (⟨_, .binOp .eql 102 (.tmp 39) (.tmp 47) 102, _, _, _, _⟩ :: _) _ _); go_must (refine wpList_exec rfl (.bool false) (exec_eq102 (.tmp 39) (.tmp 47) rfl false false true false false rfl rfl rfl) ?_)) | ((with_reducible show wpList _ _ _ (⟨_, .build 102 #[(0, .const (.bool false)), (1, .const (.bool true))], _, _, _, _⟩ :: _) _ _); go_must (refine wpList_exec rfl (.agg #[.bool false, .bool true]) (exec_buildc rfl (by kernel_rfl)) ?_)) | ((with_reducible show wpList _ _ _ (⟨_, .binOp .eql 102 (.tmp 39) (.tmp 54) 102, _, _, _, _⟩ :: _) _ _); go_must (refine wpList_exec rfl (.bool false) (exec_eq102 (.tmp 39) (.tmp 54) rfl false false false true false rfl rfl rfl) ?_)) | fail)
          have ea0 : a / 2 ^ i % 2 = 0 := by omega
          have eb0 : b / 2 ^ i % 2 = 0 := by omega
          have hd := HI.out.dbl
          refine ⟨⟨i, R.dbl, by omega, by go_num, by rw [EC.two_step, ea0, eb0, show EC.sm P 0 = EC.zero from rfl, show EC.sm Q 0 = EC.zero from rfl, EC.add_zero, EC.add_zero]; exact hd, HG3.out, HA3.out, HP3.out, HB3.out, HQ3.out, HX3.out, HK3.out⟩, by simp [intOf]⟩
end Go.Proofs.Ytgdimnbdnepbgaa
