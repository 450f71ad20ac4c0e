/- The field's Inv, even, Root. No statement is proved here. -/
import Derived.Test.YtgdimnbdnepbgaaFX
namespace Go.Proofs.Ytgdimnbdnepbgaa
open Go.RowKit
set_option linter.unusedVariables false
set_option maxRecDepth 40000


set_option maxHeartbeats 1000000 in
theorem Inv_core (a e r : Nat) (w : World) (HO : Hid (∀ w, Calls Try.prog 61 #[.int .u8 235, .int .u8 127] w (Gives (vN e) w))) (HP : Hid (∀ w, Calls Try.prog 27 #[vN a, vN e] w (Gives (vN r) w))) :
    Calls Try.prog 29 #[vN a] w (Gives (vN r) w) := by
  go_enter Try.func29, Try.ntmps29
  go_wp2_with (first | ((with_reducible show wpList _ _ _ (⟨some 1, .box 23 (.tmp 0), _, _, _, _⟩ :: _) _ _); go_must (refine wpList_box_row rfl 23 (.tmp 0) rfl (bcs (enc a)).toArray rfl ?_; intro w1 h1 z1 g1; have H1 := Lib.hid h1; have Z1 := Lib.hid z1; have G1 := Lib.hid g1; clear h1 z1 g1)) | ((with_reducible show wpList _ _ _ (⟨some 2, .alloc 23, _, _, _, _⟩ :: _) _ _); go_must (refine wpList_alloc_row rfl 23 rfl (.agg (zbs 32)) zero23 ?_; intro w2 h1 z1 g1; have H2 := Lib.hid h1; have Z2 := Lib.hid z1; have G2 := Lib.hid g1; clear h1 z1 g1)))
  have R : Hid (NAt w2 w.heap.size a) := NAt.grown ⟨23, H1.out⟩ G2.out (by simp)
  have HB : Hid (Below w.heap.size w w2) := (below_of_grownBy G1.out).trans ((below_of_grownBy G2.out).mono (by have := Z1.out; omega))
  have Z : Hid (ZAt w2 (w.heap.size + 1)) := by
    have h := H2.out
    rw [Z1.out] at h
    exact h
  rw [show w1.heap.size = w.heap.size + 1 from Z1.out]
  have HLTwheapsize : Hid (w.heap.size < w2.heap.size) := R.out.lt
  have HLTwheapsizep1 : Hid (w.heap.size + 1 < w2.heap.size) := Z.out.lt
  clear H1 Z1 G1 H2 Z2 G2
  refine region_split (fun a' W => NAt W (w.heap.size + 1) r ∧ Below w.heap.size w W ∧ a' = ⟨#[vN a, .pointer (some ⟨w.heap.size, 0, none⟩), .pointer (some ⟨w.heap.size + 1, 0, none⟩), vN a, vN e, vN r], []⟩) ?_ ?_
  · refine startW (fun j => j == 3) (w2.heap.size) (by kernel_rfl) ?_
    obtain ⟨D1, hD1⟩ : ∃ D, D = w2.drew := ⟨_, rfl⟩
    rw [← hD1]
    have HLD1 : Hid (w2.heap.size ≤ D1.heap.size) := Lib.hid (by rw [hD1]; exact Nat.le_refl _)
    have HBD1 : Hid (Below w.heap.size w D1) := Lib.hid (by rw [hD1]; exact below_drewN' HB.out 1)
    have R0D1 : Hid (NAt D1 (w.heap.size) a) := Lib.hid (by rw [hD1]; exact R.out)
    have Z0D1 : Hid (ZAt D1 (w.heap.size + 1)) := Lib.hid (by rw [hD1]; exact Z.out)
    clear hD1
    refine takeT (i := 0) (oi := { dst := some 3, op := Op.load 23 (Operand.tmp 1), type := 23, pos := "field.go:66", after := #[], guard := none }) (vN a) rfl (by kernel_rfl) (by kernel_rfl) (by kernel_rfl) (by kernel_rfl) (by kernel_rfl) (fun _ _ _ h => nomatch h.1) (by rfl) (fun w' hk => exec_load23 (.tmp 1) rfl (w.heap.size) a rfl (R0D1.out.below hk HLTwheapsize.out)) ?_
    simp only [Act.put, List.setIfInBounds_toArray, List.set_cons_zero, List.set_cons_succ]
    refine callW (i := 1) (oi := { dst := some 4, op := Op.call { callee := Callee.value (Operand.func 61), args := #[Operand.const (Value.int IntKind.u8 235), Operand.const (Value.int IntKind.u8 127)], argTypes := #[5, 5] }, type := 23, pos := "field.go:66", after := #[], guard := none }) rfl (by kernel_rfl) (by rfl) (exec_callL 61 [.const (.int .u8 235), .const (.int .u8 127)] #[5, 5] rfl [.int .u8 235, .int .u8 127] rfl (CF34 _)) ((HO.out D1).mono ?_)
    rintro eW2 W2 ⟨rfl, hbW2⟩
    refine ⟨_, rfl, fun _ => hbW2.mono HLD1.out, ?_⟩
    have HBW2 : Hid (Below w.heap.size w W2) := Lib.hid (HBD1.out.trans (hbW2.mono HBD1.out.size))
    have HLW2 : Hid (w2.heap.size ≤ W2.heap.size) := Lib.hid (Nat.le_trans HLD1.out hbW2.size)
    have R0D1_W2 := Lib.hid (R0D1.out.keep hbW2)
    have Z0D1_W2 := Lib.hid (Z0D1.out.keep hbW2)
    clear hbW2 HBD1 HLD1 R0D1 Z0D1
    simp only [Act.put, List.setIfInBounds_toArray, List.set_cons_zero, List.set_cons_succ]
    refine callW (i := 2) (oi := { dst := some 5, op := Op.call { callee := Callee.value (Operand.func 27), args := #[Operand.tmp 3, Operand.tmp 4], argTypes := #[23, 23] }, type := 23, pos := "field.go:66", after := #[{ on := 0, ground := Ground.data }, { on := 1, ground := Ground.data }, { on := 1, ground := Ground.chain }], guard := none }) rfl (by kernel_rfl) (by rfl) (exec_callL 27 [.tmp 3, .tmp 4] #[23, 23] rfl [vN a, vN e] rfl (CF16 _)) ((HP.out W2).mono ?_)
    rintro eW3 W3 ⟨rfl, hbW3⟩
    refine ⟨_, rfl, fun _ => hbW3.mono HLW2.out, ?_⟩
    have HBW3 : Hid (Below w.heap.size w W3) := Lib.hid (HBW2.out.trans (hbW3.mono HBW2.out.size))
    have HLW3 : Hid (w2.heap.size ≤ W3.heap.size) := Lib.hid (Nat.le_trans HLW2.out hbW3.size)
    have R0D1_W3 := Lib.hid (R0D1_W2.out.keep hbW3)
    have Z0D1_W3 := Lib.hid (Z0D1_W2.out.keep hbW3)
    clear hbW3 HBW2 HLW2 R0D1_W2 Z0D1_W2
    simp only [Act.put, List.setIfInBounds_toArray, List.set_cons_zero, List.set_cons_succ]
    refine storeW_all (i := 3) (oi := { dst := none, op := Op.store 23 (Operand.tmp 2) (Operand.tmp 5), type := 0, pos := "field.go:66", after := #[{ on := 2, ground := Ground.data }, { on := 2, ground := Ground.chain }, { on := 0, ground := Ground.phase }, { on := 1, ground := Ground.phase }, { on := 2, ground := Ground.phase }], guard := none }) rfl (by kernel_rfl) (by rfl) 23 (.tmp 2) (.tmp 5) rfl (w.heap.size + 1) rfl (bcs (enc r)).toArray rfl 23 _ Z0D1_W3.out (by rw [List.size_toArray, bcs_enc_len]; exact size23) (by rw [List.size_toArray, bcs_enc_len]; rfl) (bcs_one _) rfl ?_
    intro W4 hhW4 hgW4 hzW4
    simp only [Act.put, List.setIfInBounds_toArray, List.set_cons_zero, List.set_cons_succ]
    have R0D1_W4 := Lib.hid (R0D1_W3.out.grown hgW4 (by simp))
    have Swheapsizep1_W4 : Hid (NAt W4 (w.heap.size + 1) r) := Lib.hid ⟨23, hhW4⟩
    have HBW4 : Hid (Below w.heap.size w W4) := Lib.hid (HBW3.out.grown hgW4 HBW3.out.size (fun r hr => by injection hr with hr; omega))
    have HLW4 : Hid (w2.heap.size ≤ W4.heap.size) := Lib.hid (Nat.le_trans HLW3.out hgW4.size)
    clear hhW4 hgW4 hzW4 HBW3 HLW3 R0D1_W3 Z0D1_W3
    refine doneW (by kernel_rfl) ⟨rfl, ?_⟩ _
    exact ⟨Swheapsizep1_W4.out, HBW4.out, rfl⟩
  rintro a' W ⟨⟨t, ht⟩, hb, rfl⟩
  have HH := Lib.hid ht
  have HBel := Lib.hid hb
  clear ht hb R HB Z HLTwheapsize HLTwheapsizep1 HO HP
  go_wp2
  refine bodyPost_ret (results_cell_row rfl _ _ (w.heap.size + 1) t (bcs (enc r)).toArray _ _ rfl HH.out under23 rfl (by rw [List.size_toArray, bcs_enc_len]; exact size23)) rfl ?_
  exact ⟨rfl, HBel.out⟩


set_option maxHeartbeats 1000000 in
theorem even_core (a m r : Nat) (b : Bool) (w : World) (HOd : Hid (∀ w, Calls Try.prog 31 #[vN a] w (Gives (.bool b) w))) (HN : Hid (∀ w, Calls Try.prog 23 #[vN a] w (Gives (vN m) w))) (HR : Hid ((if b then m else a) = r)) :
    Calls Try.prog 62 #[vN a] w (Gives (vN r) w) := by
  go_enter Try.func62, Try.ntmps62
  go_wp2_with (first | ((with_reducible show wpList _ _ _ (⟨some 1, .box 23 (.tmp 0), _, _, _, _⟩ :: _) _ _); go_must (refine wpList_box_row rfl 23 (.tmp 0) rfl (bcs (enc a)).toArray rfl ?_; intro w1 h1 z1 g1; have H1 := Lib.hid h1; have Z1 := Lib.hid z1; have G1 := Lib.hid g1; clear h1 z1 g1)) | ((with_reducible show wpList _ _ _ (⟨some 2, .alloc 23, _, _, _, _⟩ :: _) _ _); go_must (refine wpList_alloc_row rfl 23 rfl (.agg (zbs 32)) zero23 ?_; intro w2 h1 z1 g1; have H2 := Lib.hid h1; have Z2 := Lib.hid z1; have G2 := Lib.hid g1; clear h1 z1 g1; have R : Hid (NAt w2 w.heap.size a) := NAt.grown ⟨23, H1.out⟩ G2.out (by simp))) | ((with_reducible show wpList _ _ _ (⟨_, .load 23 (.tmp 1), _, _, _, _⟩ :: _) _ _); go_must (refine wpList_exec rfl (vN a) (exec_load23 (.tmp 1) rfl (w.heap.size) a rfl R.out) ?_)))
  have HB : Hid (Below w.heap.size w w2) := (below_of_grownBy G1.out).trans ((below_of_grownBy G2.out).mono (by have := Z1.out; omega))
  have Z : Hid (ZAt w2 (w.heap.size + 1)) := by
    have h := H2.out
    rw [Z1.out] at h
    exact h
  rw [show w1.heap.size = w.heap.size + 1 from Z1.out]
  clear H1 Z1 G1 H2 Z2 G2
  refine (HOd.out _).mono ?_
  rintro e x1 ⟨rfl, hb⟩
  have R1 := Lib.hid (R.out.keep hb)
  have Z1 := Lib.hid (Z.out.keep hb)
  have HB1 := Lib.hid (HB.out.trans (hb.mono HB.out.size))
  clear hb R Z HB HOd
  cases b
  · have hr : a = r := HR.out
    subst hr
    have HRow : Hid (x1.heap[w.heap.size + 1]? = some (.cells (zbs 32) 23 (0, 0))) := Z1.out
    have HBel := HB1
    clear HR
    go_wp2_with (first | ((with_reducible show wpList _ _ _ (⟨_, .load 23 (.tmp 1), _, _, _, _⟩ :: _) _ _); go_must (refine wpList_exec rfl (vN a) (exec_load23 (.tmp 1) rfl (w.heap.size) a rfl R1.out) ?_)) | ((with_reducible show wpList _ _ _ (⟨none, .store 23 (.tmp 2) (.tmp 7), _, _, _, _⟩ :: _) _ _); go_must (refine wpList_store_all rfl 23 (.tmp 2) (.tmp 7) rfl (w.heap.size + 1) rfl (bcs (enc a)).toArray rfl 23 _ HRow.out (by rw [List.size_toArray, bcs_enc_len]; exact size23) (by rw [List.size_toArray, bcs_enc_len]; rfl) (bcs_one _) ?_; intro x5 hh hg hz; have HH := Lib.hid hh; have HG := Lib.hid hg; clear hh hg hz)))
    refine bodyPost_ret (results_cell_row rfl _ _ (w.heap.size + 1) 23 (bcs (enc a)).toArray _ _ rfl HH.out under23 rfl (by rw [List.size_toArray, bcs_enc_len]; exact size23)) rfl ?_
    exact ⟨rfl, HBel.out.grown HG.out HBel.out.size (fun r hr => by injection hr; omega)⟩
  · have hr : m = r := HR.out
    subst hr
    clear HR
    go_wp2_with ((with_reducible show wpList _ _ _ (⟨_, .load 23 (.tmp 1), _, _, _, _⟩ :: _) _ _); go_must (refine wpList_exec rfl (vN a) (exec_load23 (.tmp 1) rfl (w.heap.size) a rfl R1.out) ?_))
    refine (HN.out _).mono ?_
    rintro e x2 ⟨rfl, hb⟩
    have HRow : Hid (x2.heap[w.heap.size + 1]? = some (.cells (zbs 32) 23 (0, 0))) := Z1.out.keep hb
    have HBel := Lib.hid (HB1.out.trans (hb.mono HB1.out.size))
    clear hb R1 Z1 HB1 HN
    go_wp2_with ((with_reducible show wpList _ _ _ (⟨none, .store 23 (.tmp 2) (.tmp 6), _, _, _, _⟩ :: _) _ _); go_must (refine wpList_store_all rfl 23 (.tmp 2) (.tmp 6) rfl (w.heap.size + 1) rfl (bcs (enc m)).toArray rfl 23 _ HRow.out (by rw [List.size_toArray, bcs_enc_len]; exact size23) (by rw [List.size_toArray, bcs_enc_len]; rfl) (bcs_one _) ?_; intro x5 hh hg hz; have HH := Lib.hid hh; have HG := Lib.hid hg; clear hh hg hz))
    refine bodyPost_ret (results_cell_row rfl _ _ (w.heap.size + 1) 23 (bcs (enc m)).toArray _ _ rfl HH.out under23 rfl (by rw [List.size_toArray, bcs_enc_len]; exact size23)) rfl ?_
    exact ⟨rfl, HBel.out.grown HG.out HBel.out.size (fun r hr => by injection hr; omega)⟩


set_option maxHeartbeats 1000000 in
theorem rootOfMinusOne_core (e r : Nat) (w : World) (HOf : Hid (∀ w, Calls Try.prog 17 #[.int .u64 2] w (Gives (vN 2) w))) (HO : Hid (∀ w, Calls Try.prog 61 #[.int .u8 251, .int .u8 31] w (Gives (vN e) w))) (HP : Hid (∀ w, Calls Try.prog 27 #[vN 2, vN e] w (Gives (vN r) w))) :
    Calls Try.prog 63 #[] w (Gives (vN r) w) := by
  go_enter Try.func63, Try.ntmps63
  go_wp2_with ((with_reducible show wpList _ _ _ (⟨some 0, .alloc 23, _, _, _, _⟩ :: _) _ _); go_must (refine wpList_alloc_row rfl 23 rfl (.agg (zbs 32)) zero23 ?_; intro w1 h1 z1 g1; have H1 := Lib.hid h1; have Z1 := Lib.hid z1; have G1 := Lib.hid g1; clear h1 z1 g1))
  have Z : Hid (ZAt w1 w.heap.size) := H1.out
  have HB : Hid (Below w.heap.size w w1) := below_of_grownBy G1.out
  clear H1 Z1 G1
  refine (HOf.out _).mono ?_
  rintro e x1 ⟨rfl, hb⟩
  have Z1 := Lib.hid (Z.out.keep hb)
  have HB1 := Lib.hid (HB.out.trans (hb.mono HB.out.size))
  clear hb Z HB HOf
  go_wp2_with fail
  refine (HO.out _).mono ?_
  rintro e x2 ⟨rfl, hb⟩
  have Z2 := Lib.hid (Z1.out.keep hb)
  have HB2 := Lib.hid (HB1.out.trans (hb.mono HB1.out.size))
  clear hb Z1 HB1 HO
  go_wp2_with fail
  refine (HP.out _).mono ?_
  rintro e x3 ⟨rfl, hb⟩
  have HRow : Hid (x3.heap[w.heap.size]? = some (.cells (zbs 32) 23 (0, 0))) := Z2.out.keep hb
  have HBel := Lib.hid (HB2.out.trans (hb.mono HB2.out.size))
  clear hb Z2 HB2 HP
  go_wp2_with ((with_reducible show wpList _ _ _ (⟨none, .store 23 (.tmp 0) (.tmp 3), _, _, _, _⟩ :: _) _ _); go_must (refine wpList_store_all rfl 23 (.tmp 0) (.tmp 3) rfl (w.heap.size) rfl (bcs (enc r)).toArray rfl 23 _ HRow.out (by rw [List.size_toArray, bcs_enc_len]; exact size23) (by rw [List.size_toArray, bcs_enc_len]; rfl) (bcs_one _) ?_; intro x5 hh hg hz; have HH := Lib.hid hh; have HG := Lib.hid hg; clear hh hg hz))
  refine bodyPost_ret (results_cell_row rfl _ _ (w.heap.size) 23 (bcs (enc r)).toArray _ _ rfl HH.out under23 rfl (by rw [List.size_toArray, bcs_enc_len]; exact size23)) rfl ?_
  exact ⟨rfl, HBel.out.grown HG.out HBel.out.size (fun r hr => by injection hr; omega)⟩

end Go.Proofs.Ytgdimnbdnepbgaa
