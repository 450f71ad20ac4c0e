/- It is proved that FieldRing returns true for any three numbers: sums and products are those of a ring, modulo 2^255 - 19. Conditions: none. -/
import Derived.Test.YtlkjengcmlfknaaRows
import Derived.Test.YtlkjengcmlfknaaGC
import Derived.ProofKit
import Derived.OpenShut
import Derived.ChangeOld
namespace Go.Proofs.Ytlkjengcmlfknaa.fieldRing
open Go.ChangeShapes Go.WideShapes Go.ChangeAt Go.RowKit
set_option linter.unusedVariables false

theorem own : ownKnob Try.prog.godebug = none := by kernel_rfl
theorem laidOut : laidOutB Try.prog = true := by kernel_rfl

set_option maxHeartbeats 8000000 in
set_option maxRecDepth 100000 in
theorem ring_core (A B C s p t1 u1 t2 u2 t3 u3 r d n m q : Nat) (cA : Bool) (w : World)
    (C0 : Hid (∀ w, Calls Try.prog 23 #[vN A, vN B] w (Gives (vN s) w)))
    (C1 : Hid (∀ w, Calls Try.prog 28 #[vN A, vN B] w (Gives (vN p) w)))
    (C2 : Hid (∀ w, Calls Try.prog 23 #[vN B, vN A] w (Gives (vN s) w)))
    (C3 : Hid (∀ w, Calls Try.prog 28 #[vN B, vN A] w (Gives (vN p) w)))
    (C4 : Hid (∀ w, Calls Try.prog 23 #[vN s, vN C] w (Gives (vN t1) w)))
    (C5 : Hid (∀ w, Calls Try.prog 23 #[vN B, vN C] w (Gives (vN u1) w)))
    (C6 : Hid (∀ w, Calls Try.prog 23 #[vN A, vN u1] w (Gives (vN t1) w)))
    (C7 : Hid (∀ w, Calls Try.prog 28 #[vN p, vN C] w (Gives (vN t2) w)))
    (C8 : Hid (∀ w, Calls Try.prog 28 #[vN B, vN C] w (Gives (vN u2) w)))
    (C9 : Hid (∀ w, Calls Try.prog 28 #[vN A, vN u2] w (Gives (vN t2) w)))
    (C10 : Hid (∀ w, Calls Try.prog 28 #[vN s, vN C] w (Gives (vN t3) w)))
    (C11 : Hid (∀ w, Calls Try.prog 28 #[vN A, vN C] w (Gives (vN u3) w)))
    (C12 : Hid (∀ w, Calls Try.prog 23 #[vN u3, vN u2] w (Gives (vN t3) w)))
    (C13 : Hid (∀ w, Calls Try.prog 25 #[vN s, vN B] w (Gives (vN r) w)))
    (C14 : Hid (∀ w, Calls Try.prog 11 #[vN A] w (Gives (vN r) w)))
    (C15 : Hid (∀ w, Calls Try.prog 25 #[vN A, vN B] w (Gives (vN d) w)))
    (C16 : Hid (∀ w, Calls Try.prog 23 #[vN d, vN B] w (Gives (vN r) w)))
    (C17 : Hid (∀ w, Calls Try.prog 13 #[vN A] w (Gives (vN n) w)))
    (C18 : Hid (∀ w, Calls Try.prog 25 #[vN 0, vN A] w (Gives (vN n) w)))
    (C19 : Hid (∀ w, Calls Try.prog 23 #[vN A, vN n] w (Gives (vN 0) w)))
    (C20 : Hid (∀ w, Calls Try.prog 28 #[vN n, vN B] w (Gives (vN m) w)))
    (C21 : Hid (∀ w, Calls Try.prog 13 #[vN p] w (Gives (vN m) w)))
    (C22 : Hid (∀ w, Calls Try.prog 11 #[vN r] w (Gives (vN r) w)))
    (C23 : Hid (∀ w, Calls Try.prog 11 #[vN B] w (Gives (vN q) w)))
    (C24 : Hid (∀ w, Calls Try.prog 23 #[vN r, vN q] w (Gives (vN s) w)))
    (C25 : Hid (∀ w, Calls Try.prog 28 #[vN r, vN q] w (Gives (vN p) w)))
    (C26 : Hid (∀ w, Calls Try.prog 28 #[vN A, vN 1] w (Gives (vN r) w)))
    (C27 : Hid (∀ w, Calls Try.prog 23 #[vN A, vN 0] w (Gives (vN r) w)))
    (C28 : Hid (∀ w, Calls Try.prog 10 #[] w (Gives (.bool true) w)))
    (C29 : Hid (∀ w, Calls Try.prog 12 #[vN s] w (Gives (.bool true) w)))
    (C30 : Hid (∀ w, Calls Try.prog 12 #[vN p] w (Gives (.bool true) w)))
    (C31 : Hid (∀ w, Calls Try.prog 12 #[vN r] w (Gives (.bool true) w)))
    (C32 : Hid (∀ w, Calls Try.prog 12 #[vN A] w (Gives (.bool cA) w)))
    (C33 : Hid (∀ w, Calls Try.prog 14 #[.int .u64 1] w (Gives (vN 1) w)))
    (HCA : Hid (∀ w, (Op.equalIn 10000 23 (vN r) (vN A)).run Try.prog w = .ok cA w)) :
    Calls Try.prog 5 #[vN A, vN B, vN C] w (Gives (.bool true) w) := by
  go_enter Try.func5, Try.ntmps5
  go_wp2_with (first | ((with_reducible show wpList _ _ _ (⟨some 3, .box 23 (.tmp 0), _, _, _, _⟩ :: _) _ _); go_must (refine wpList_box_row rfl 23 (.tmp 0) rfl (bcs (enc A)).toArray rfl ?_; intro w1 h1 z1 g1; have H1 := Lib.hid h1; have Z1 := Lib.hid z1; have G1 := Lib.hid g1; clear h1 z1 g1)) | ((with_reducible show wpList _ _ _ (⟨some 4, .box 23 (.tmp 1), _, _, _, _⟩ :: _) _ _); go_must (refine wpList_box_row rfl 23 (.tmp 1) rfl (bcs (enc B)).toArray rfl ?_; intro w2 h1 z1 g1; have H2 := Lib.hid h1; have Z2 := Lib.hid z1; have G2 := Lib.hid g1; clear h1 z1 g1)) | ((with_reducible show wpList _ _ _ (⟨some 5, .box 23 (.tmp 2), _, _, _, _⟩ :: _) _ _); go_must (refine wpList_box_row rfl 23 (.tmp 2) rfl (bcs (enc C)).toArray rfl ?_; intro w3 h1 z1 g1; have H3 := Lib.hid h1; have Z3 := Lib.hid z1; have G3 := Lib.hid g1; clear h1 z1 g1)) | fail)
  have RA_0 : Hid (NAt w3 w.heap.size A) := (NAt.grown ⟨23, H1.out⟩ G2.out (by simp)).grown G3.out (by have := Z1.out; simp)
  have RB_0 : Hid (NAt w3 (w.heap.size + 1) B) := by
    have h : NAt w2 w1.heap.size B := ⟨23, H2.out⟩
    rw [Z1.out] at h
    exact h.grown G3.out (by simp)
  have RC_0 : Hid (NAt w3 (w.heap.size + 2) C) := by
    have h : NAt w3 w2.heap.size C := ⟨23, H3.out⟩
    rw [Z2.out, Z1.out] at h
    exact h
  have HB_0 : Hid (Below w.heap.size w w3) := ((below_of_grownBy G1.out).trans ((below_of_grownBy G2.out).mono (by have := Z1.out; omega))).trans ((below_of_grownBy G3.out).mono (by have := Z1.out; have := Z2.out; omega))
  rw [show w2.heap.size = w.heap.size + 2 from by rw [Z2.out, Z1.out], show w1.heap.size = w.heap.size + 1 from Z1.out]
  clear H1 Z1 G1 H2 Z2 G2 H3 Z3 G3
  refine (C28.out _).mono ?_
  rintro ex x11 ⟨rfl, hb⟩
  have RA_11 := Lib.hid (RA_0.out.keep hb)
  have RB_11 := Lib.hid (RB_0.out.keep hb)
  have RC_11 := Lib.hid (RC_0.out.keep hb)
  have HB_11 := Lib.hid (HB_0.out.trans (hb.mono HB_0.out.size))
  clear hb RA_0 RB_0 RC_0 HB_0
  go_wp2_with fail
  have HLTwheapsize : Hid (w.heap.size < x11.heap.size) := RA_11.out.lt
  have HLTwheapsizep1 : Hid (w.heap.size + 1 < x11.heap.size) := RB_11.out.lt
  have HLTwheapsizep2 : Hid (w.heap.size + 2 < x11.heap.size) := RC_11.out.lt
  refine region_split (fun a' W => ∃ g7 g8, NAt W (w.heap.size) A ∧ NAt W (w.heap.size + 1) B ∧ NAt W (w.heap.size + 2) C ∧ NAt W g7 s ∧ NAt W g8 p ∧ Below w.heap.size w W ∧ a' = ⟨#[vN A, vN B, vN C, .pointer (some ⟨w.heap.size, 0, none⟩), .pointer (some ⟨w.heap.size + 1, 0, none⟩), .pointer (some ⟨w.heap.size + 2, 0, none⟩), .bool false, .pointer (some ⟨g7, 0, none⟩), .pointer (some ⟨g8, 0, none⟩), undef, .bool true, .bool false, vN A, vN B, vN s, vN A, vN B, vN p, undef, undef, undef, undef, undef, undef, undef, undef, undef, undef, undef, undef, undef, undef, undef, undef, undef, undef, undef, undef, undef, undef, undef, undef, undef, undef, undef, undef, undef, undef, undef, undef, undef, undef, undef, undef, undef, undef, undef, undef, undef, undef, undef, undef, undef, undef, undef, undef, undef, undef, undef, undef, undef, undef, undef, undef, undef, undef, undef, undef, undef, undef, undef, undef, undef, undef, undef, undef, undef, undef, undef, undef, undef, undef, undef, undef, undef, undef, undef, undef, undef, undef, undef, undef, undef, undef, undef, undef, undef, undef, undef, undef, undef, undef, undef, undef, undef, undef, undef, undef, undef, undef, undef, undef, undef, undef, undef, undef, undef, undef, undef, undef, undef, undef, undef, undef, undef, undef, undef, undef, undef, undef, undef, undef, undef, undef, undef, undef, undef, undef, undef, undef, undef, undef, undef, undef, undef, undef, undef, undef, undef, undef, undef, undef], []⟩) ?_ ?_
  · refine startW (fun j => j == 8 || j == 9) (x11.heap.size) (by kernel_rfl) ?_
    obtain ⟨D1, hD1⟩ : ∃ D, D = x11.drew := ⟨_, rfl⟩
    rw [← hD1]
    have HLD1 : Hid (x11.heap.size ≤ D1.heap.size) := Lib.hid (by rw [hD1]; exact Nat.le_refl _)
    have HBD1 : Hid (Below w.heap.size w D1) := Lib.hid (by rw [hD1]; exact below_drewN' HB_11.out 1)
    have R0D1 : Hid (NAt D1 (w.heap.size) A) := Lib.hid (by rw [hD1]; exact RA_11.out)
    have R1D1 : Hid (NAt D1 (w.heap.size + 1) B) := Lib.hid (by rw [hD1]; exact RB_11.out)
    have R2D1 : Hid (NAt D1 (w.heap.size + 2) C) := Lib.hid (by rw [hD1]; exact RC_11.out)
    clear hD1
    refine takeT (i := 0) (oi := { dst := some 12, op := Op.load 23 (Operand.tmp 3), type := 23, pos := "law.go:46", after := #[], guard := none }) (vN A) rfl (by kernel_rfl) (by kernel_rfl) (by kernel_rfl) (by kernel_rfl) (by kernel_rfl) (fun _ _ _ h => nomatch h.1) (by rfl) (fun w' hk => exec_load23 (.tmp 3) rfl (w.heap.size) A rfl (R0D1.out.below hk HLTwheapsize.out)) ?_
    simp only [Act.put, List.setIfInBounds_toArray, List.set_cons_zero, List.set_cons_succ]
    refine takeT (i := 1) (oi := { dst := some 13, op := Op.load 23 (Operand.tmp 4), type := 23, pos := "law.go:46", after := #[], guard := none }) (vN B) rfl (by kernel_rfl) (by kernel_rfl) (by kernel_rfl) (by kernel_rfl) (by kernel_rfl) (fun _ _ _ h => nomatch h.1) (by rfl) (fun w' hk => exec_load23 (.tmp 4) rfl (w.heap.size + 1) B rfl (R1D1.out.below hk HLTwheapsizep1.out)) ?_
    simp only [Act.put, List.setIfInBounds_toArray, List.set_cons_zero, List.set_cons_succ]
    refine takeT (i := 3) (oi := { dst := some 15, op := Op.load 23 (Operand.tmp 3), type := 23, pos := "law.go:46", after := #[], guard := none }) (vN A) rfl (by kernel_rfl) (by kernel_rfl) (by kernel_rfl) (by kernel_rfl) (by kernel_rfl) (fun _ _ _ h => nomatch h.1) (by rfl) (fun w' hk => exec_load23 (.tmp 3) rfl (w.heap.size) A rfl (R0D1.out.below hk HLTwheapsize.out)) ?_
    simp only [Act.put, List.setIfInBounds_toArray, List.set_cons_zero, List.set_cons_succ]
    refine takeT (i := 4) (oi := { dst := some 16, op := Op.load 23 (Operand.tmp 4), type := 23, pos := "law.go:46", after := #[], guard := none }) (vN B) rfl (by kernel_rfl) (by kernel_rfl) (by kernel_rfl) (by kernel_rfl) (by kernel_rfl) (fun _ _ _ h => nomatch h.1) (by rfl) (fun w' hk => exec_load23 (.tmp 4) rfl (w.heap.size + 1) B rfl (R1D1.out.below hk HLTwheapsizep1.out)) ?_
    simp only [Act.put, List.setIfInBounds_toArray, List.set_cons_zero, List.set_cons_succ]
    refine eachW [2, 6, 7] (by kernel_rfl) (by simp) ?_
    intro k hk
    simp only [List.mem_cons, List.not_mem_nil, or_false] at hk
    rcases hk with rfl | rfl | rfl
    · refine wpOp_call (i := 2) (oi := { dst := some 14, op := Op.call { callee := Callee.value (Operand.func 23), args := #[Operand.tmp 12, Operand.tmp 13], argTypes := #[23, 23] }, type := 23, pos := "law.go:46", after := #[{ on := 0, ground := Ground.data }, { on := 1, ground := Ground.data }], guard := none }) rfl (by rfl) (exec_callL 23 [.tmp 12, .tmp 13] #[23, 23] rfl [vN A, vN B] rfl (CF23 _)) ((C0.out D1).mono ?_)
      rintro eW2 W2 ⟨rfl, hbW2⟩
      refine ⟨_, rfl, fun _ => hbW2.mono HLD1.out, ?_⟩
      have HBW2 : Hid (Below w.heap.size w W2) := Lib.hid (HBD1.out.trans (hbW2.mono HBD1.out.size))
      have HLW2 : Hid (x11.heap.size ≤ W2.heap.size) := Lib.hid (Nat.le_trans HLD1.out hbW2.size)
      have R0D1_W2 := Lib.hid (R0D1.out.keep hbW2)
      have R1D1_W2 := Lib.hid (R1D1.out.keep hbW2)
      have R2D1_W2 := Lib.hid (R2D1.out.keep hbW2)
      clear hbW2 HBD1 HLD1 R0D1 R1D1 R2D1
      simp only [Act.put, List.setIfInBounds_toArray, List.set_cons_zero, List.set_cons_succ]
      refine eachW [5, 6, 7] (by kernel_rfl) (by simp) ?_
      intro k hk
      simp only [List.mem_cons, List.not_mem_nil, or_false] at hk
      rcases hk with rfl | rfl | rfl
      · refine wpOp_call (i := 5) (oi := { dst := some 17, op := Op.call { callee := Callee.value (Operand.func 28), args := #[Operand.tmp 15, Operand.tmp 16], argTypes := #[23, 23] }, type := 23, pos := "law.go:46", after := #[{ on := 3, ground := Ground.data }, { on := 4, ground := Ground.data }, { on := 2, ground := Ground.chain }], guard := none }) rfl (by rfl) (exec_callL 28 [.tmp 15, .tmp 16] #[23, 23] rfl [vN A, vN B] rfl (CF28 _)) ((C1.out W2).mono ?_)
        rintro eW3 W3 ⟨rfl, hbW3⟩
        refine ⟨_, rfl, fun _ => hbW3.mono HLW2.out, ?_⟩
        have HBW3 : Hid (Below w.heap.size w W3) := Lib.hid (HBW2.out.trans (hbW3.mono HBW2.out.size))
        have HLW3 : Hid (x11.heap.size ≤ W3.heap.size) := Lib.hid (Nat.le_trans HLW2.out hbW3.size)
        have R0D1_W3 := Lib.hid (R0D1_W2.out.keep hbW3)
        have R1D1_W3 := Lib.hid (R1D1_W2.out.keep hbW3)
        have R2D1_W3 := Lib.hid (R2D1_W2.out.keep hbW3)
        clear hbW3 HBW2 HLW2 R0D1_W2 R1D1_W2 R2D1_W2
        simp only [Act.put, List.setIfInBounds_toArray, List.set_cons_zero, List.set_cons_succ]
        refine eachW [6, 7] (by kernel_rfl) (by simp) ?_
        intro k hk
        simp only [List.mem_cons, List.not_mem_nil, or_false] at hk
        rcases hk with rfl | rfl
        · refine wpOp_value (i := 6) (oi := { dst := some 7, op := Op.alloc 23, type := 0, pos := "law.go:46", after := #[], guard := none }) rfl (by rfl) (exec_alloc 23 rfl (.agg (zbs 32)) zero23 W3) ⟨fun _ => (below_alloc W3 _).mono HLW3.out, ?_⟩
          obtain ⟨W4, hW4, hbW4, hzW4⟩ := alloc_zero W3
          rw [← hW4]
          obtain ⟨gW4, hgW4⟩ : ∃ g, g = W3.heap.size := ⟨_, rfl⟩
          rw [← hgW4] at hzW4 ⊢
          have HGgW4 : Hid (x11.heap.size ≤ gW4) := Lib.hid (by rw [hgW4]; exact HLW3.out)
          have HBW4 : Hid (Below w.heap.size w W4) := Lib.hid (HBW3.out.trans (hbW4.mono HBW3.out.size))
          have HLW4 : Hid (x11.heap.size ≤ W4.heap.size) := Lib.hid (Nat.le_trans HLW3.out hbW4.size)
          have R0D1_W4 := Lib.hid (R0D1_W3.out.keep hbW4)
          have R1D1_W4 := Lib.hid (R1D1_W3.out.keep hbW4)
          have R2D1_W4 := Lib.hid (R2D1_W3.out.keep hbW4)
          have ZAgW4_W4 := Lib.hid hzW4
          clear hbW4 HBW3 HLW3 R0D1_W3 R1D1_W3 R2D1_W3 hzW4 hgW4 hW4
          simp only [Act.put, List.setIfInBounds_toArray, List.set_cons_zero, List.set_cons_succ]
          refine opW _ _ (i := 7) (oi := { dst := some 8, op := Op.alloc 23, type := 0, pos := "law.go:46", after := #[], guard := none }) rfl (by kernel_rfl) (by rfl) (exec_alloc 23 rfl (.agg (zbs 32)) zero23 W4) (fun _ => (below_alloc W4 _).mono HLW4.out) ?_
          obtain ⟨W5, hW5, hbW5, hzW5⟩ := alloc_zero W4
          rw [← hW5]
          obtain ⟨gW5, hgW5⟩ : ∃ g, g = W4.heap.size := ⟨_, rfl⟩
          rw [← hgW5] at hzW5 ⊢
          have HGgW5 : Hid (x11.heap.size ≤ gW5) := Lib.hid (by rw [hgW5]; exact HLW4.out)
          have HXgW4gW5 : Hid (gW4 ≠ gW5) := Lib.hid (by have := ZAgW4_W4.out.lt; omega)
          have HBW5 : Hid (Below w.heap.size w W5) := Lib.hid (HBW4.out.trans (hbW5.mono HBW4.out.size))
          have HLW5 : Hid (x11.heap.size ≤ W5.heap.size) := Lib.hid (Nat.le_trans HLW4.out hbW5.size)
          have R0D1_W5 := Lib.hid (R0D1_W4.out.keep hbW5)
          have R1D1_W5 := Lib.hid (R1D1_W4.out.keep hbW5)
          have R2D1_W5 := Lib.hid (R2D1_W4.out.keep hbW5)
          have ZAgW4_W5 := Lib.hid (ZAgW4_W4.out.keep hbW5)
          have ZAgW5_W5 := Lib.hid hzW5
          clear hbW5 HBW4 HLW4 R0D1_W4 R1D1_W4 R2D1_W4 ZAgW4_W4 hzW5 hgW5 hW5
          simp only [Act.put, List.setIfInBounds_toArray, List.set_cons_zero, List.set_cons_succ]
          refine storeW_all (i := 8) (oi := { dst := none, op := Op.store 23 (Operand.tmp 7) (Operand.tmp 14), type := 0, pos := "law.go:46", after := #[{ on := 6, ground := Ground.data }, { on := 2, ground := Ground.data }, { on := 5, ground := Ground.chain }, { on := 0, ground := Ground.phase }, { on := 1, ground := Ground.phase }, { on := 2, ground := Ground.phase }, { on := 3, ground := Ground.textOnly Departure.lateStores }, { on := 4, ground := Ground.textOnly Departure.lateStores }, { on := 5, ground := Ground.textOnly Departure.lateStoresUnsure }, { on := 6, ground := Ground.phase }, { on := 7, ground := Ground.phase }], guard := none }) rfl (by kernel_rfl) (by rfl) 23 (.tmp 7) (.tmp 14) rfl (gW4) rfl (bcs (enc s)).toArray rfl 23 _ ZAgW4_W5.out (by rw [List.size_toArray, bcs_enc_len]; exact size23) (by rw [List.size_toArray, bcs_enc_len]; rfl) (bcs_one _) rfl ?_
          intro W6 hhW6 hgW6 hzW6
          simp only [Act.put, List.setIfInBounds_toArray, List.set_cons_zero, List.set_cons_succ]
          have R0D1_W6 := Lib.hid (R0D1_W5.out.grown hgW6 (by have := HGgW4.out; have := HLTwheapsize.out; simp; omega))
          have R1D1_W6 := Lib.hid (R1D1_W5.out.grown hgW6 (by have := HGgW4.out; have := HLTwheapsizep1.out; simp; omega))
          have R2D1_W6 := Lib.hid (R2D1_W5.out.grown hgW6 (by have := HGgW4.out; have := HLTwheapsizep2.out; simp; omega))
          have ZAgW5_W6 := Lib.hid (ZAgW5_W5.out.grown hgW6 (by have := HXgW4gW5.out; simp; omega))
          have SgW4_W6 : Hid (NAt W6 (gW4) s) := Lib.hid ⟨23, hhW6⟩
          have HBW6 : Hid (Below w.heap.size w W6) := Lib.hid (HBW5.out.grown hgW6 HBW5.out.size (fun r hr => by injection hr with hr; have := HGgW4.out; have := HB_11.out.size; omega))
          have HLW6 : Hid (x11.heap.size ≤ W6.heap.size) := Lib.hid (Nat.le_trans HLW5.out hgW6.size)
          clear hhW6 hgW6 hzW6 HBW5 HLW5 R0D1_W5 R1D1_W5 R2D1_W5 ZAgW4_W5 ZAgW5_W5
          refine storeW_all (i := 9) (oi := { dst := none, op := Op.store 23 (Operand.tmp 8) (Operand.tmp 17), type := 0, pos := "law.go:46", after := #[{ on := 7, ground := Ground.data }, { on := 5, ground := Ground.data }, { on := 8, ground := Ground.chain }, { on := 0, ground := Ground.phase }, { on := 1, ground := Ground.phase }, { on := 2, ground := Ground.phase }, { on := 3, ground := Ground.phase }, { on := 4, ground := Ground.phase }, { on := 5, ground := Ground.phase }, { on := 6, ground := Ground.phase }, { on := 7, ground := Ground.phase }, { on := 8, ground := Ground.phase }], guard := none }) rfl (by kernel_rfl) (by rfl) 23 (.tmp 8) (.tmp 17) rfl (gW5) rfl (bcs (enc p)).toArray rfl 23 _ ZAgW5_W6.out (by rw [List.size_toArray, bcs_enc_len]; exact size23) (by rw [List.size_toArray, bcs_enc_len]; rfl) (bcs_one _) rfl ?_
          intro W7 hhW7 hgW7 hzW7
          simp only [Act.put, List.setIfInBounds_toArray, List.set_cons_zero, List.set_cons_succ]
          have R0D1_W7 := Lib.hid (R0D1_W6.out.grown hgW7 (by have := HGgW5.out; have := HLTwheapsize.out; simp; omega))
          have R1D1_W7 := Lib.hid (R1D1_W6.out.grown hgW7 (by have := HGgW5.out; have := HLTwheapsizep1.out; simp; omega))
          have R2D1_W7 := Lib.hid (R2D1_W6.out.grown hgW7 (by have := HGgW5.out; have := HLTwheapsizep2.out; simp; omega))
          have SgW4_W7 := Lib.hid (SgW4_W6.out.grown hgW7 (by have := HXgW4gW5.out; simp; omega))
          have SgW5_W7 : Hid (NAt W7 (gW5) p) := Lib.hid ⟨23, hhW7⟩
          have HBW7 : Hid (Below w.heap.size w W7) := Lib.hid (HBW6.out.grown hgW7 HBW6.out.size (fun r hr => by injection hr with hr; have := HGgW5.out; have := HB_11.out.size; omega))
          have HLW7 : Hid (x11.heap.size ≤ W7.heap.size) := Lib.hid (Nat.le_trans HLW6.out hgW7.size)
          clear hhW7 hgW7 hzW7 HBW6 HLW6 R0D1_W6 R1D1_W6 R2D1_W6 SgW4_W6 ZAgW5_W6
          refine doneW (by kernel_rfl) ⟨rfl, ?_⟩ _
          exact ⟨gW4, gW5, R0D1_W7.out, R1D1_W7.out, R2D1_W7.out, SgW4_W7.out, SgW5_W7.out, HBW7.out, rfl⟩
        · refine wpOp_value (i := 7) (oi := { dst := some 8, op := Op.alloc 23, type := 0, pos := "law.go:46", after := #[], guard := none }) rfl (by rfl) (exec_alloc 23 rfl (.agg (zbs 32)) zero23 W3) ⟨fun _ => (below_alloc W3 _).mono HLW3.out, ?_⟩
          obtain ⟨W8, hW8, hbW8, hzW8⟩ := alloc_zero W3
          rw [← hW8]
          obtain ⟨gW8, hgW8⟩ : ∃ g, g = W3.heap.size := ⟨_, rfl⟩
          rw [← hgW8] at hzW8 ⊢
          have HGgW8 : Hid (x11.heap.size ≤ gW8) := Lib.hid (by rw [hgW8]; exact HLW3.out)
          have HBW8 : Hid (Below w.heap.size w W8) := Lib.hid (HBW3.out.trans (hbW8.mono HBW3.out.size))
          have HLW8 : Hid (x11.heap.size ≤ W8.heap.size) := Lib.hid (Nat.le_trans HLW3.out hbW8.size)
          have R0D1_W8 := Lib.hid (R0D1_W3.out.keep hbW8)
          have R1D1_W8 := Lib.hid (R1D1_W3.out.keep hbW8)
          have R2D1_W8 := Lib.hid (R2D1_W3.out.keep hbW8)
          have ZAgW8_W8 := Lib.hid hzW8
          clear hbW8 HBW3 HLW3 R0D1_W3 R1D1_W3 R2D1_W3 hzW8 hgW8 hW8
          simp only [Act.put, List.setIfInBounds_toArray, List.set_cons_zero, List.set_cons_succ]
          refine opW _ _ (i := 6) (oi := { dst := some 7, op := Op.alloc 23, type := 0, pos := "law.go:46", after := #[], guard := none }) rfl (by kernel_rfl) (by rfl) (exec_alloc 23 rfl (.agg (zbs 32)) zero23 W8) (fun _ => (below_alloc W8 _).mono HLW8.out) ?_
          obtain ⟨W9, hW9, hbW9, hzW9⟩ := alloc_zero W8
          rw [← hW9]
          obtain ⟨gW9, hgW9⟩ : ∃ g, g = W8.heap.size := ⟨_, rfl⟩
          rw [← hgW9] at hzW9 ⊢
          have HGgW9 : Hid (x11.heap.size ≤ gW9) := Lib.hid (by rw [hgW9]; exact HLW8.out)
          have HXgW8gW9 : Hid (gW8 ≠ gW9) := Lib.hid (by have := ZAgW8_W8.out.lt; omega)
          have HBW9 : Hid (Below w.heap.size w W9) := Lib.hid (HBW8.out.trans (hbW9.mono HBW8.out.size))
          have HLW9 : Hid (x11.heap.size ≤ W9.heap.size) := Lib.hid (Nat.le_trans HLW8.out hbW9.size)
          have R0D1_W9 := Lib.hid (R0D1_W8.out.keep hbW9)
          have R1D1_W9 := Lib.hid (R1D1_W8.out.keep hbW9)
          have R2D1_W9 := Lib.hid (R2D1_W8.out.keep hbW9)
          have ZAgW8_W9 := Lib.hid (ZAgW8_W8.out.keep hbW9)
          have ZAgW9_W9 := Lib.hid hzW9
          clear hbW9 HBW8 HLW8 R0D1_W8 R1D1_W8 R2D1_W8 ZAgW8_W8 hzW9 hgW9 hW9
          simp only [Act.put, List.setIfInBounds_toArray, List.set_cons_zero, List.set_cons_succ]
          refine storeW_all (i := 8) (oi := { dst := none, op := Op.store 23 (Operand.tmp 7) (Operand.tmp 14), type := 0, pos := "law.go:46", after := #[{ on := 6, ground := Ground.data }, { on := 2, ground := Ground.data }, { on := 5, ground := Ground.chain }, { on := 0, ground := Ground.phase }, { on := 1, ground := Ground.phase }, { on := 2, ground := Ground.phase }, { on := 3, ground := Ground.textOnly Departure.lateStores }, { on := 4, ground := Ground.textOnly Departure.lateStores }, { on := 5, ground := Ground.textOnly Departure.lateStoresUnsure }, { on := 6, ground := Ground.phase }, { on := 7, ground := Ground.phase }], guard := none }) rfl (by kernel_rfl) (by rfl) 23 (.tmp 7) (.tmp 14) rfl (gW9) rfl (bcs (enc s)).toArray rfl 23 _ ZAgW9_W9.out (by rw [List.size_toArray, bcs_enc_len]; exact size23) (by rw [List.size_toArray, bcs_enc_len]; rfl) (bcs_one _) rfl ?_
          intro W10 hhW10 hgW10 hzW10
          simp only [Act.put, List.setIfInBounds_toArray, List.set_cons_zero, List.set_cons_succ]
          have R0D1_W10 := Lib.hid (R0D1_W9.out.grown hgW10 (by have := HGgW9.out; have := HLTwheapsize.out; simp; omega))
          have R1D1_W10 := Lib.hid (R1D1_W9.out.grown hgW10 (by have := HGgW9.out; have := HLTwheapsizep1.out; simp; omega))
          have R2D1_W10 := Lib.hid (R2D1_W9.out.grown hgW10 (by have := HGgW9.out; have := HLTwheapsizep2.out; simp; omega))
          have ZAgW8_W10 := Lib.hid (ZAgW8_W9.out.grown hgW10 (by have := HXgW8gW9.out; simp; omega))
          have SgW9_W10 : Hid (NAt W10 (gW9) s) := Lib.hid ⟨23, hhW10⟩
          have HBW10 : Hid (Below w.heap.size w W10) := Lib.hid (HBW9.out.grown hgW10 HBW9.out.size (fun r hr => by injection hr with hr; have := HGgW9.out; have := HB_11.out.size; omega))
          have HLW10 : Hid (x11.heap.size ≤ W10.heap.size) := Lib.hid (Nat.le_trans HLW9.out hgW10.size)
          clear hhW10 hgW10 hzW10 HBW9 HLW9 R0D1_W9 R1D1_W9 R2D1_W9 ZAgW8_W9 ZAgW9_W9
          refine storeW_all (i := 9) (oi := { dst := none, op := Op.store 23 (Operand.tmp 8) (Operand.tmp 17), type := 0, pos := "law.go:46", after := #[{ on := 7, ground := Ground.data }, { on := 5, ground := Ground.data }, { on := 8, ground := Ground.chain }, { on := 0, ground := Ground.phase }, { on := 1, ground := Ground.phase }, { on := 2, ground := Ground.phase }, { on := 3, ground := Ground.phase }, { on := 4, ground := Ground.phase }, { on := 5, ground := Ground.phase }, { on := 6, ground := Ground.phase }, { on := 7, ground := Ground.phase }, { on := 8, ground := Ground.phase }], guard := none }) rfl (by kernel_rfl) (by rfl) 23 (.tmp 8) (.tmp 17) rfl (gW8) rfl (bcs (enc p)).toArray rfl 23 _ ZAgW8_W10.out (by rw [List.size_toArray, bcs_enc_len]; exact size23) (by rw [List.size_toArray, bcs_enc_len]; rfl) (bcs_one _) rfl ?_
          intro W11 hhW11 hgW11 hzW11
          simp only [Act.put, List.setIfInBounds_toArray, List.set_cons_zero, List.set_cons_succ]
          have R0D1_W11 := Lib.hid (R0D1_W10.out.grown hgW11 (by have := HGgW8.out; have := HLTwheapsize.out; simp; omega))
          have R1D1_W11 := Lib.hid (R1D1_W10.out.grown hgW11 (by have := HGgW8.out; have := HLTwheapsizep1.out; simp; omega))
          have R2D1_W11 := Lib.hid (R2D1_W10.out.grown hgW11 (by have := HGgW8.out; have := HLTwheapsizep2.out; simp; omega))
          have SgW9_W11 := Lib.hid (SgW9_W10.out.grown hgW11 (by have := HXgW8gW9.out; simp; omega))
          have SgW8_W11 : Hid (NAt W11 (gW8) p) := Lib.hid ⟨23, hhW11⟩
          have HBW11 : Hid (Below w.heap.size w W11) := Lib.hid (HBW10.out.grown hgW11 HBW10.out.size (fun r hr => by injection hr with hr; have := HGgW8.out; have := HB_11.out.size; omega))
          have HLW11 : Hid (x11.heap.size ≤ W11.heap.size) := Lib.hid (Nat.le_trans HLW10.out hgW11.size)
          clear hhW11 hgW11 hzW11 HBW10 HLW10 R0D1_W10 R1D1_W10 R2D1_W10 SgW9_W10 ZAgW8_W10
          refine doneW (by kernel_rfl) ⟨rfl, ?_⟩ _
          exact ⟨gW9, gW8, R0D1_W11.out, R1D1_W11.out, R2D1_W11.out, SgW9_W11.out, SgW8_W11.out, HBW11.out, rfl⟩
      · refine wpOp_value (i := 6) (oi := { dst := some 7, op := Op.alloc 23, type := 0, pos := "law.go:46", after := #[], guard := none }) rfl (by rfl) (exec_alloc 23 rfl (.agg (zbs 32)) zero23 W2) ⟨fun _ => (below_alloc W2 _).mono HLW2.out, ?_⟩
        obtain ⟨W12, hW12, hbW12, hzW12⟩ := alloc_zero W2
        rw [← hW12]
        obtain ⟨gW12, hgW12⟩ : ∃ g, g = W2.heap.size := ⟨_, rfl⟩
        rw [← hgW12] at hzW12 ⊢
        have HGgW12 : Hid (x11.heap.size ≤ gW12) := Lib.hid (by rw [hgW12]; exact HLW2.out)
        have HBW12 : Hid (Below w.heap.size w W12) := Lib.hid (HBW2.out.trans (hbW12.mono HBW2.out.size))
        have HLW12 : Hid (x11.heap.size ≤ W12.heap.size) := Lib.hid (Nat.le_trans HLW2.out hbW12.size)
        have R0D1_W12 := Lib.hid (R0D1_W2.out.keep hbW12)
        have R1D1_W12 := Lib.hid (R1D1_W2.out.keep hbW12)
        have R2D1_W12 := Lib.hid (R2D1_W2.out.keep hbW12)
        have ZAgW12_W12 := Lib.hid hzW12
        clear hbW12 HBW2 HLW2 R0D1_W2 R1D1_W2 R2D1_W2 hzW12 hgW12 hW12
        simp only [Act.put, List.setIfInBounds_toArray, List.set_cons_zero, List.set_cons_succ]
        refine eachW [5, 7] (by kernel_rfl) (by simp) ?_
        intro k hk
        simp only [List.mem_cons, List.not_mem_nil, or_false] at hk
        rcases hk with rfl | rfl
        · refine wpOp_call (i := 5) (oi := { dst := some 17, op := Op.call { callee := Callee.value (Operand.func 28), args := #[Operand.tmp 15, Operand.tmp 16], argTypes := #[23, 23] }, type := 23, pos := "law.go:46", after := #[{ on := 3, ground := Ground.data }, { on := 4, ground := Ground.data }, { on := 2, ground := Ground.chain }], guard := none }) rfl (by rfl) (exec_callL 28 [.tmp 15, .tmp 16] #[23, 23] rfl [vN A, vN B] rfl (CF28 _)) ((C1.out W12).mono ?_)
          rintro eW13 W13 ⟨rfl, hbW13⟩
          refine ⟨_, rfl, fun _ => hbW13.mono HLW12.out, ?_⟩
          have HBW13 : Hid (Below w.heap.size w W13) := Lib.hid (HBW12.out.trans (hbW13.mono HBW12.out.size))
          have HLW13 : Hid (x11.heap.size ≤ W13.heap.size) := Lib.hid (Nat.le_trans HLW12.out hbW13.size)
          have R0D1_W13 := Lib.hid (R0D1_W12.out.keep hbW13)
          have R1D1_W13 := Lib.hid (R1D1_W12.out.keep hbW13)
          have R2D1_W13 := Lib.hid (R2D1_W12.out.keep hbW13)
          have ZAgW12_W13 := Lib.hid (ZAgW12_W12.out.keep hbW13)
          clear hbW13 HBW12 HLW12 R0D1_W12 R1D1_W12 R2D1_W12 ZAgW12_W12
          simp only [Act.put, List.setIfInBounds_toArray, List.set_cons_zero, List.set_cons_succ]
          refine opW _ _ (i := 7) (oi := { dst := some 8, op := Op.alloc 23, type := 0, pos := "law.go:46", after := #[], guard := none }) rfl (by kernel_rfl) (by rfl) (exec_alloc 23 rfl (.agg (zbs 32)) zero23 W13) (fun _ => (below_alloc W13 _).mono HLW13.out) ?_
          obtain ⟨W14, hW14, hbW14, hzW14⟩ := alloc_zero W13
          rw [← hW14]
          obtain ⟨gW14, hgW14⟩ : ∃ g, g = W13.heap.size := ⟨_, rfl⟩
          rw [← hgW14] at hzW14 ⊢
          have HGgW14 : Hid (x11.heap.size ≤ gW14) := Lib.hid (by rw [hgW14]; exact HLW13.out)
          have HXgW12gW14 : Hid (gW12 ≠ gW14) := Lib.hid (by have := ZAgW12_W13.out.lt; omega)
          have HBW14 : Hid (Below w.heap.size w W14) := Lib.hid (HBW13.out.trans (hbW14.mono HBW13.out.size))
          have HLW14 : Hid (x11.heap.size ≤ W14.heap.size) := Lib.hid (Nat.le_trans HLW13.out hbW14.size)
          have R0D1_W14 := Lib.hid (R0D1_W13.out.keep hbW14)
          have R1D1_W14 := Lib.hid (R1D1_W13.out.keep hbW14)
          have R2D1_W14 := Lib.hid (R2D1_W13.out.keep hbW14)
          have ZAgW12_W14 := Lib.hid (ZAgW12_W13.out.keep hbW14)
          have ZAgW14_W14 := Lib.hid hzW14
          clear hbW14 HBW13 HLW13 R0D1_W13 R1D1_W13 R2D1_W13 ZAgW12_W13 hzW14 hgW14 hW14
          simp only [Act.put, List.setIfInBounds_toArray, List.set_cons_zero, List.set_cons_succ]
          refine storeW_all (i := 8) (oi := { dst := none, op := Op.store 23 (Operand.tmp 7) (Operand.tmp 14), type := 0, pos := "law.go:46", after := #[{ on := 6, ground := Ground.data }, { on := 2, ground := Ground.data }, { on := 5, ground := Ground.chain }, { on := 0, ground := Ground.phase }, { on := 1, ground := Ground.phase }, { on := 2, ground := Ground.phase }, { on := 3, ground := Ground.textOnly Departure.lateStores }, { on := 4, ground := Ground.textOnly Departure.lateStores }, { on := 5, ground := Ground.textOnly Departure.lateStoresUnsure }, { on := 6, ground := Ground.phase }, { on := 7, ground := Ground.phase }], guard := none }) rfl (by kernel_rfl) (by rfl) 23 (.tmp 7) (.tmp 14) rfl (gW12) rfl (bcs (enc s)).toArray rfl 23 _ ZAgW12_W14.out (by rw [List.size_toArray, bcs_enc_len]; exact size23) (by rw [List.size_toArray, bcs_enc_len]; rfl) (bcs_one _) rfl ?_
          intro W15 hhW15 hgW15 hzW15
          simp only [Act.put, List.setIfInBounds_toArray, List.set_cons_zero, List.set_cons_succ]
          have R0D1_W15 := Lib.hid (R0D1_W14.out.grown hgW15 (by have := HGgW12.out; have := HLTwheapsize.out; simp; omega))
          have R1D1_W15 := Lib.hid (R1D1_W14.out.grown hgW15 (by have := HGgW12.out; have := HLTwheapsizep1.out; simp; omega))
          have R2D1_W15 := Lib.hid (R2D1_W14.out.grown hgW15 (by have := HGgW12.out; have := HLTwheapsizep2.out; simp; omega))
          have ZAgW14_W15 := Lib.hid (ZAgW14_W14.out.grown hgW15 (by have := HXgW12gW14.out; simp; omega))
          have SgW12_W15 : Hid (NAt W15 (gW12) s) := Lib.hid ⟨23, hhW15⟩
          have HBW15 : Hid (Below w.heap.size w W15) := Lib.hid (HBW14.out.grown hgW15 HBW14.out.size (fun r hr => by injection hr with hr; have := HGgW12.out; have := HB_11.out.size; omega))
          have HLW15 : Hid (x11.heap.size ≤ W15.heap.size) := Lib.hid (Nat.le_trans HLW14.out hgW15.size)
          clear hhW15 hgW15 hzW15 HBW14 HLW14 R0D1_W14 R1D1_W14 R2D1_W14 ZAgW12_W14 ZAgW14_W14
          refine storeW_all (i := 9) (oi := { dst := none, op := Op.store 23 (Operand.tmp 8) (Operand.tmp 17), type := 0, pos := "law.go:46", after := #[{ on := 7, ground := Ground.data }, { on := 5, ground := Ground.data }, { on := 8, ground := Ground.chain }, { on := 0, ground := Ground.phase }, { on := 1, ground := Ground.phase }, { on := 2, ground := Ground.phase }, { on := 3, ground := Ground.phase }, { on := 4, ground := Ground.phase }, { on := 5, ground := Ground.phase }, { on := 6, ground := Ground.phase }, { on := 7, ground := Ground.phase }, { on := 8, ground := Ground.phase }], guard := none }) rfl (by kernel_rfl) (by rfl) 23 (.tmp 8) (.tmp 17) rfl (gW14) rfl (bcs (enc p)).toArray rfl 23 _ ZAgW14_W15.out (by rw [List.size_toArray, bcs_enc_len]; exact size23) (by rw [List.size_toArray, bcs_enc_len]; rfl) (bcs_one _) rfl ?_
          intro W16 hhW16 hgW16 hzW16
          simp only [Act.put, List.setIfInBounds_toArray, List.set_cons_zero, List.set_cons_succ]
          have R0D1_W16 := Lib.hid (R0D1_W15.out.grown hgW16 (by have := HGgW14.out; have := HLTwheapsize.out; simp; omega))
          have R1D1_W16 := Lib.hid (R1D1_W15.out.grown hgW16 (by have := HGgW14.out; have := HLTwheapsizep1.out; simp; omega))
          have R2D1_W16 := Lib.hid (R2D1_W15.out.grown hgW16 (by have := HGgW14.out; have := HLTwheapsizep2.out; simp; omega))
          have SgW12_W16 := Lib.hid (SgW12_W15.out.grown hgW16 (by have := HXgW12gW14.out; simp; omega))
          have SgW14_W16 : Hid (NAt W16 (gW14) p) := Lib.hid ⟨23, hhW16⟩
          have HBW16 : Hid (Below w.heap.size w W16) := Lib.hid (HBW15.out.grown hgW16 HBW15.out.size (fun r hr => by injection hr with hr; have := HGgW14.out; have := HB_11.out.size; omega))
          have HLW16 : Hid (x11.heap.size ≤ W16.heap.size) := Lib.hid (Nat.le_trans HLW15.out hgW16.size)
          clear hhW16 hgW16 hzW16 HBW15 HLW15 R0D1_W15 R1D1_W15 R2D1_W15 SgW12_W15 ZAgW14_W15
          refine doneW (by kernel_rfl) ⟨rfl, ?_⟩ _
          exact ⟨gW12, gW14, R0D1_W16.out, R1D1_W16.out, R2D1_W16.out, SgW12_W16.out, SgW14_W16.out, HBW16.out, rfl⟩
        · refine wpOp_value (i := 7) (oi := { dst := some 8, op := Op.alloc 23, type := 0, pos := "law.go:46", after := #[], guard := none }) rfl (by rfl) (exec_alloc 23 rfl (.agg (zbs 32)) zero23 W12) ⟨fun _ => (below_alloc W12 _).mono HLW12.out, ?_⟩
          obtain ⟨W17, hW17, hbW17, hzW17⟩ := alloc_zero W12
          rw [← hW17]
          obtain ⟨gW17, hgW17⟩ : ∃ g, g = W12.heap.size := ⟨_, rfl⟩
          rw [← hgW17] at hzW17 ⊢
          have HGgW17 : Hid (x11.heap.size ≤ gW17) := Lib.hid (by rw [hgW17]; exact HLW12.out)
          have HXgW12gW17 : Hid (gW12 ≠ gW17) := Lib.hid (by have := ZAgW12_W12.out.lt; omega)
          have HBW17 : Hid (Below w.heap.size w W17) := Lib.hid (HBW12.out.trans (hbW17.mono HBW12.out.size))
          have HLW17 : Hid (x11.heap.size ≤ W17.heap.size) := Lib.hid (Nat.le_trans HLW12.out hbW17.size)
          have R0D1_W17 := Lib.hid (R0D1_W12.out.keep hbW17)
          have R1D1_W17 := Lib.hid (R1D1_W12.out.keep hbW17)
          have R2D1_W17 := Lib.hid (R2D1_W12.out.keep hbW17)
          have ZAgW12_W17 := Lib.hid (ZAgW12_W12.out.keep hbW17)
          have ZAgW17_W17 := Lib.hid hzW17
          clear hbW17 HBW12 HLW12 R0D1_W12 R1D1_W12 R2D1_W12 ZAgW12_W12 hzW17 hgW17 hW17
          simp only [Act.put, List.setIfInBounds_toArray, List.set_cons_zero, List.set_cons_succ]
          refine callW (i := 5) (oi := { dst := some 17, op := Op.call { callee := Callee.value (Operand.func 28), args := #[Operand.tmp 15, Operand.tmp 16], argTypes := #[23, 23] }, type := 23, pos := "law.go:46", after := #[{ on := 3, ground := Ground.data }, { on := 4, ground := Ground.data }, { on := 2, ground := Ground.chain }], guard := none }) rfl (by kernel_rfl) (by rfl) (exec_callL 28 [.tmp 15, .tmp 16] #[23, 23] rfl [vN A, vN B] rfl (CF28 _)) ((C1.out W17).mono ?_)
          rintro eW18 W18 ⟨rfl, hbW18⟩
          refine ⟨_, rfl, fun _ => hbW18.mono HLW17.out, ?_⟩
          have HBW18 : Hid (Below w.heap.size w W18) := Lib.hid (HBW17.out.trans (hbW18.mono HBW17.out.size))
          have HLW18 : Hid (x11.heap.size ≤ W18.heap.size) := Lib.hid (Nat.le_trans HLW17.out hbW18.size)
          have R0D1_W18 := Lib.hid (R0D1_W17.out.keep hbW18)
          have R1D1_W18 := Lib.hid (R1D1_W17.out.keep hbW18)
          have R2D1_W18 := Lib.hid (R2D1_W17.out.keep hbW18)
          have ZAgW12_W18 := Lib.hid (ZAgW12_W17.out.keep hbW18)
          have ZAgW17_W18 := Lib.hid (ZAgW17_W17.out.keep hbW18)
          clear hbW18 HBW17 HLW17 R0D1_W17 R1D1_W17 R2D1_W17 ZAgW12_W17 ZAgW17_W17
          simp only [Act.put, List.setIfInBounds_toArray, List.set_cons_zero, List.set_cons_succ]
          refine storeW_all (i := 8) (oi := { dst := none, op := Op.store 23 (Operand.tmp 7) (Operand.tmp 14), type := 0, pos := "law.go:46", after := #[{ on := 6, ground := Ground.data }, { on := 2, ground := Ground.data }, { on := 5, ground := Ground.chain }, { on := 0, ground := Ground.phase }, { on := 1, ground := Ground.phase }, { on := 2, ground := Ground.phase }, { on := 3, ground := Ground.textOnly Departure.lateStores }, { on := 4, ground := Ground.textOnly Departure.lateStores }, { on := 5, ground := Ground.textOnly Departure.lateStoresUnsure }, { on := 6, ground := Ground.phase }, { on := 7, ground := Ground.phase }], guard := none }) rfl (by kernel_rfl) (by rfl) 23 (.tmp 7) (.tmp 14) rfl (gW12) rfl (bcs (enc s)).toArray rfl 23 _ ZAgW12_W18.out (by rw [List.size_toArray, bcs_enc_len]; exact size23) (by rw [List.size_toArray, bcs_enc_len]; rfl) (bcs_one _) rfl ?_
          intro W19 hhW19 hgW19 hzW19
          simp only [Act.put, List.setIfInBounds_toArray, List.set_cons_zero, List.set_cons_succ]
          have R0D1_W19 := Lib.hid (R0D1_W18.out.grown hgW19 (by have := HGgW12.out; have := HLTwheapsize.out; simp; omega))
          have R1D1_W19 := Lib.hid (R1D1_W18.out.grown hgW19 (by have := HGgW12.out; have := HLTwheapsizep1.out; simp; omega))
          have R2D1_W19 := Lib.hid (R2D1_W18.out.grown hgW19 (by have := HGgW12.out; have := HLTwheapsizep2.out; simp; omega))
          have ZAgW17_W19 := Lib.hid (ZAgW17_W18.out.grown hgW19 (by have := HXgW12gW17.out; simp; omega))
          have SgW12_W19 : Hid (NAt W19 (gW12) s) := Lib.hid ⟨23, hhW19⟩
          have HBW19 : Hid (Below w.heap.size w W19) := Lib.hid (HBW18.out.grown hgW19 HBW18.out.size (fun r hr => by injection hr with hr; have := HGgW12.out; have := HB_11.out.size; omega))
          have HLW19 : Hid (x11.heap.size ≤ W19.heap.size) := Lib.hid (Nat.le_trans HLW18.out hgW19.size)
          clear hhW19 hgW19 hzW19 HBW18 HLW18 R0D1_W18 R1D1_W18 R2D1_W18 ZAgW12_W18 ZAgW17_W18
          refine storeW_all (i := 9) (oi := { dst := none, op := Op.store 23 (Operand.tmp 8) (Operand.tmp 17), type := 0, pos := "law.go:46", after := #[{ on := 7, ground := Ground.data }, { on := 5, ground := Ground.data }, { on := 8, ground := Ground.chain }, { on := 0, ground := Ground.phase }, { on := 1, ground := Ground.phase }, { on := 2, ground := Ground.phase }, { on := 3, ground := Ground.phase }, { on := 4, ground := Ground.phase }, { on := 5, ground := Ground.phase }, { on := 6, ground := Ground.phase }, { on := 7, ground := Ground.phase }, { on := 8, ground := Ground.phase }], guard := none }) rfl (by kernel_rfl) (by rfl) 23 (.tmp 8) (.tmp 17) rfl (gW17) rfl (bcs (enc p)).toArray rfl 23 _ ZAgW17_W19.out (by rw [List.size_toArray, bcs_enc_len]; exact size23) (by rw [List.size_toArray, bcs_enc_len]; rfl) (bcs_one _) rfl ?_
          intro W20 hhW20 hgW20 hzW20
          simp only [Act.put, List.setIfInBounds_toArray, List.set_cons_zero, List.set_cons_succ]
          have R0D1_W20 := Lib.hid (R0D1_W19.out.grown hgW20 (by have := HGgW17.out; have := HLTwheapsize.out; simp; omega))
          have R1D1_W20 := Lib.hid (R1D1_W19.out.grown hgW20 (by have := HGgW17.out; have := HLTwheapsizep1.out; simp; omega))
          have R2D1_W20 := Lib.hid (R2D1_W19.out.grown hgW20 (by have := HGgW17.out; have := HLTwheapsizep2.out; simp; omega))
          have SgW12_W20 := Lib.hid (SgW12_W19.out.grown hgW20 (by have := HXgW12gW17.out; simp; omega))
          have SgW17_W20 : Hid (NAt W20 (gW17) p) := Lib.hid ⟨23, hhW20⟩
          have HBW20 : Hid (Below w.heap.size w W20) := Lib.hid (HBW19.out.grown hgW20 HBW19.out.size (fun r hr => by injection hr with hr; have := HGgW17.out; have := HB_11.out.size; omega))
          have HLW20 : Hid (x11.heap.size ≤ W20.heap.size) := Lib.hid (Nat.le_trans HLW19.out hgW20.size)
          clear hhW20 hgW20 hzW20 HBW19 HLW19 R0D1_W19 R1D1_W19 R2D1_W19 SgW12_W19 ZAgW17_W19
          refine doneW (by kernel_rfl) ⟨rfl, ?_⟩ _
          exact ⟨gW12, gW17, R0D1_W20.out, R1D1_W20.out, R2D1_W20.out, SgW12_W20.out, SgW17_W20.out, HBW20.out, rfl⟩
      · refine wpOp_value (i := 7) (oi := { dst := some 8, op := Op.alloc 23, type := 0, pos := "law.go:46", after := #[], guard := none }) rfl (by rfl) (exec_alloc 23 rfl (.agg (zbs 32)) zero23 W2) ⟨fun _ => (below_alloc W2 _).mono HLW2.out, ?_⟩
        obtain ⟨W21, hW21, hbW21, hzW21⟩ := alloc_zero W2
        rw [← hW21]
        obtain ⟨gW21, hgW21⟩ : ∃ g, g = W2.heap.size := ⟨_, rfl⟩
        rw [← hgW21] at hzW21 ⊢
        have HGgW21 : Hid (x11.heap.size ≤ gW21) := Lib.hid (by rw [hgW21]; exact HLW2.out)
        have HBW21 : Hid (Below w.heap.size w W21) := Lib.hid (HBW2.out.trans (hbW21.mono HBW2.out.size))
        have HLW21 : Hid (x11.heap.size ≤ W21.heap.size) := Lib.hid (Nat.le_trans HLW2.out hbW21.size)
        have R0D1_W21 := Lib.hid (R0D1_W2.out.keep hbW21)
        have R1D1_W21 := Lib.hid (R1D1_W2.out.keep hbW21)
        have R2D1_W21 := Lib.hid (R2D1_W2.out.keep hbW21)
        have ZAgW21_W21 := Lib.hid hzW21
        clear hbW21 HBW2 HLW2 R0D1_W2 R1D1_W2 R2D1_W2 hzW21 hgW21 hW21
        simp only [Act.put, List.setIfInBounds_toArray, List.set_cons_zero, List.set_cons_succ]
        refine eachW [5, 6] (by kernel_rfl) (by simp) ?_
        intro k hk
        simp only [List.mem_cons, List.not_mem_nil, or_false] at hk
        rcases hk with rfl | rfl
        · refine wpOp_call (i := 5) (oi := { dst := some 17, op := Op.call { callee := Callee.value (Operand.func 28), args := #[Operand.tmp 15, Operand.tmp 16], argTypes := #[23, 23] }, type := 23, pos := "law.go:46", after := #[{ on := 3, ground := Ground.data }, { on := 4, ground := Ground.data }, { on := 2, ground := Ground.chain }], guard := none }) rfl (by rfl) (exec_callL 28 [.tmp 15, .tmp 16] #[23, 23] rfl [vN A, vN B] rfl (CF28 _)) ((C1.out W21).mono ?_)
          rintro eW22 W22 ⟨rfl, hbW22⟩
          refine ⟨_, rfl, fun _ => hbW22.mono HLW21.out, ?_⟩
          have HBW22 : Hid (Below w.heap.size w W22) := Lib.hid (HBW21.out.trans (hbW22.mono HBW21.out.size))
          have HLW22 : Hid (x11.heap.size ≤ W22.heap.size) := Lib.hid (Nat.le_trans HLW21.out hbW22.size)
          have R0D1_W22 := Lib.hid (R0D1_W21.out.keep hbW22)
          have R1D1_W22 := Lib.hid (R1D1_W21.out.keep hbW22)
          have R2D1_W22 := Lib.hid (R2D1_W21.out.keep hbW22)
          have ZAgW21_W22 := Lib.hid (ZAgW21_W21.out.keep hbW22)
          clear hbW22 HBW21 HLW21 R0D1_W21 R1D1_W21 R2D1_W21 ZAgW21_W21
          simp only [Act.put, List.setIfInBounds_toArray, List.set_cons_zero, List.set_cons_succ]
          refine opW _ _ (i := 6) (oi := { dst := some 7, op := Op.alloc 23, type := 0, pos := "law.go:46", after := #[], guard := none }) rfl (by kernel_rfl) (by rfl) (exec_alloc 23 rfl (.agg (zbs 32)) zero23 W22) (fun _ => (below_alloc W22 _).mono HLW22.out) ?_
          obtain ⟨W23, hW23, hbW23, hzW23⟩ := alloc_zero W22
          rw [← hW23]
          obtain ⟨gW23, hgW23⟩ : ∃ g, g = W22.heap.size := ⟨_, rfl⟩
          rw [← hgW23] at hzW23 ⊢
          have HGgW23 : Hid (x11.heap.size ≤ gW23) := Lib.hid (by rw [hgW23]; exact HLW22.out)
          have HXgW21gW23 : Hid (gW21 ≠ gW23) := Lib.hid (by have := ZAgW21_W22.out.lt; omega)
          have HBW23 : Hid (Below w.heap.size w W23) := Lib.hid (HBW22.out.trans (hbW23.mono HBW22.out.size))
          have HLW23 : Hid (x11.heap.size ≤ W23.heap.size) := Lib.hid (Nat.le_trans HLW22.out hbW23.size)
          have R0D1_W23 := Lib.hid (R0D1_W22.out.keep hbW23)
          have R1D1_W23 := Lib.hid (R1D1_W22.out.keep hbW23)
          have R2D1_W23 := Lib.hid (R2D1_W22.out.keep hbW23)
          have ZAgW21_W23 := Lib.hid (ZAgW21_W22.out.keep hbW23)
          have ZAgW23_W23 := Lib.hid hzW23
          clear hbW23 HBW22 HLW22 R0D1_W22 R1D1_W22 R2D1_W22 ZAgW21_W22 hzW23 hgW23 hW23
          simp only [Act.put, List.setIfInBounds_toArray, List.set_cons_zero, List.set_cons_succ]
          refine storeW_all (i := 8) (oi := { dst := none, op := Op.store 23 (Operand.tmp 7) (Operand.tmp 14), type := 0, pos := "law.go:46", after := #[{ on := 6, ground := Ground.data }, { on := 2, ground := Ground.data }, { on := 5, ground := Ground.chain }, { on := 0, ground := Ground.phase }, { on := 1, ground := Ground.phase }, { on := 2, ground := Ground.phase }, { on := 3, ground := Ground.textOnly Departure.lateStores }, { on := 4, ground := Ground.textOnly Departure.lateStores }, { on := 5, ground := Ground.textOnly Departure.lateStoresUnsure }, { on := 6, ground := Ground.phase }, { on := 7, ground := Ground.phase }], guard := none }) rfl (by kernel_rfl) (by rfl) 23 (.tmp 7) (.tmp 14) rfl (gW23) rfl (bcs (enc s)).toArray rfl 23 _ ZAgW23_W23.out (by rw [List.size_toArray, bcs_enc_len]; exact size23) (by rw [List.size_toArray, bcs_enc_len]; rfl) (bcs_one _) rfl ?_
          intro W24 hhW24 hgW24 hzW24
          simp only [Act.put, List.setIfInBounds_toArray, List.set_cons_zero, List.set_cons_succ]
          have R0D1_W24 := Lib.hid (R0D1_W23.out.grown hgW24 (by have := HGgW23.out; have := HLTwheapsize.out; simp; omega))
          have R1D1_W24 := Lib.hid (R1D1_W23.out.grown hgW24 (by have := HGgW23.out; have := HLTwheapsizep1.out; simp; omega))
          have R2D1_W24 := Lib.hid (R2D1_W23.out.grown hgW24 (by have := HGgW23.out; have := HLTwheapsizep2.out; simp; omega))
          have ZAgW21_W24 := Lib.hid (ZAgW21_W23.out.grown hgW24 (by have := HXgW21gW23.out; simp; omega))
          have SgW23_W24 : Hid (NAt W24 (gW23) s) := Lib.hid ⟨23, hhW24⟩
          have HBW24 : Hid (Below w.heap.size w W24) := Lib.hid (HBW23.out.grown hgW24 HBW23.out.size (fun r hr => by injection hr with hr; have := HGgW23.out; have := HB_11.out.size; omega))
          have HLW24 : Hid (x11.heap.size ≤ W24.heap.size) := Lib.hid (Nat.le_trans HLW23.out hgW24.size)
          clear hhW24 hgW24 hzW24 HBW23 HLW23 R0D1_W23 R1D1_W23 R2D1_W23 ZAgW21_W23 ZAgW23_W23
          refine storeW_all (i := 9) (oi := { dst := none, op := Op.store 23 (Operand.tmp 8) (Operand.tmp 17), type := 0, pos := "law.go:46", after := #[{ on := 7, ground := Ground.data }, { on := 5, ground := Ground.data }, { on := 8, ground := Ground.chain }, { on := 0, ground := Ground.phase }, { on := 1, ground := Ground.phase }, { on := 2, ground := Ground.phase }, { on := 3, ground := Ground.phase }, { on := 4, ground := Ground.phase }, { on := 5, ground := Ground.phase }, { on := 6, ground := Ground.phase }, { on := 7, ground := Ground.phase }, { on := 8, ground := Ground.phase }], guard := none }) rfl (by kernel_rfl) (by rfl) 23 (.tmp 8) (.tmp 17) rfl (gW21) rfl (bcs (enc p)).toArray rfl 23 _ ZAgW21_W24.out (by rw [List.size_toArray, bcs_enc_len]; exact size23) (by rw [List.size_toArray, bcs_enc_len]; rfl) (bcs_one _) rfl ?_
          intro W25 hhW25 hgW25 hzW25
          simp only [Act.put, List.setIfInBounds_toArray, List.set_cons_zero, List.set_cons_succ]
          have R0D1_W25 := Lib.hid (R0D1_W24.out.grown hgW25 (by have := HGgW21.out; have := HLTwheapsize.out; simp; omega))
          have R1D1_W25 := Lib.hid (R1D1_W24.out.grown hgW25 (by have := HGgW21.out; have := HLTwheapsizep1.out; simp; omega))
          have R2D1_W25 := Lib.hid (R2D1_W24.out.grown hgW25 (by have := HGgW21.out; have := HLTwheapsizep2.out; simp; omega))
          have SgW23_W25 := Lib.hid (SgW23_W24.out.grown hgW25 (by have := HXgW21gW23.out; simp; omega))
          have SgW21_W25 : Hid (NAt W25 (gW21) p) := Lib.hid ⟨23, hhW25⟩
          have HBW25 : Hid (Below w.heap.size w W25) := Lib.hid (HBW24.out.grown hgW25 HBW24.out.size (fun r hr => by injection hr with hr; have := HGgW21.out; have := HB_11.out.size; omega))
          have HLW25 : Hid (x11.heap.size ≤ W25.heap.size) := Lib.hid (Nat.le_trans HLW24.out hgW25.size)
          clear hhW25 hgW25 hzW25 HBW24 HLW24 R0D1_W24 R1D1_W24 R2D1_W24 SgW23_W24 ZAgW21_W24
          refine doneW (by kernel_rfl) ⟨rfl, ?_⟩ _
          exact ⟨gW23, gW21, R0D1_W25.out, R1D1_W25.out, R2D1_W25.out, SgW23_W25.out, SgW21_W25.out, HBW25.out, rfl⟩
        · refine wpOp_value (i := 6) (oi := { dst := some 7, op := Op.alloc 23, type := 0, pos := "law.go:46", after := #[], guard := none }) rfl (by rfl) (exec_alloc 23 rfl (.agg (zbs 32)) zero23 W21) ⟨fun _ => (below_alloc W21 _).mono HLW21.out, ?_⟩
          obtain ⟨W26, hW26, hbW26, hzW26⟩ := alloc_zero W21
          rw [← hW26]
          obtain ⟨gW26, hgW26⟩ : ∃ g, g = W21.heap.size := ⟨_, rfl⟩
          rw [← hgW26] at hzW26 ⊢
          have HGgW26 : Hid (x11.heap.size ≤ gW26) := Lib.hid (by rw [hgW26]; exact HLW21.out)
          have HXgW21gW26 : Hid (gW21 ≠ gW26) := Lib.hid (by have := ZAgW21_W21.out.lt; omega)
          have HBW26 : Hid (Below w.heap.size w W26) := Lib.hid (HBW21.out.trans (hbW26.mono HBW21.out.size))
          have HLW26 : Hid (x11.heap.size ≤ W26.heap.size) := Lib.hid (Nat.le_trans HLW21.out hbW26.size)
          have R0D1_W26 := Lib.hid (R0D1_W21.out.keep hbW26)
          have R1D1_W26 := Lib.hid (R1D1_W21.out.keep hbW26)
          have R2D1_W26 := Lib.hid (R2D1_W21.out.keep hbW26)
          have ZAgW21_W26 := Lib.hid (ZAgW21_W21.out.keep hbW26)
          have ZAgW26_W26 := Lib.hid hzW26
          clear hbW26 HBW21 HLW21 R0D1_W21 R1D1_W21 R2D1_W21 ZAgW21_W21 hzW26 hgW26 hW26
          simp only [Act.put, List.setIfInBounds_toArray, List.set_cons_zero, List.set_cons_succ]
          refine callW (i := 5) (oi := { dst := some 17, op := Op.call { callee := Callee.value (Operand.func 28), args := #[Operand.tmp 15, Operand.tmp 16], argTypes := #[23, 23] }, type := 23, pos := "law.go:46", after := #[{ on := 3, ground := Ground.data }, { on := 4, ground := Ground.data }, { on := 2, ground := Ground.chain }], guard := none }) rfl (by kernel_rfl) (by rfl) (exec_callL 28 [.tmp 15, .tmp 16] #[23, 23] rfl [vN A, vN B] rfl (CF28 _)) ((C1.out W26).mono ?_)
          rintro eW27 W27 ⟨rfl, hbW27⟩
          refine ⟨_, rfl, fun _ => hbW27.mono HLW26.out, ?_⟩
          have HBW27 : Hid (Below w.heap.size w W27) := Lib.hid (HBW26.out.trans (hbW27.mono HBW26.out.size))
          have HLW27 : Hid (x11.heap.size ≤ W27.heap.size) := Lib.hid (Nat.le_trans HLW26.out hbW27.size)
          have R0D1_W27 := Lib.hid (R0D1_W26.out.keep hbW27)
          have R1D1_W27 := Lib.hid (R1D1_W26.out.keep hbW27)
          have R2D1_W27 := Lib.hid (R2D1_W26.out.keep hbW27)
          have ZAgW21_W27 := Lib.hid (ZAgW21_W26.out.keep hbW27)
          have ZAgW26_W27 := Lib.hid (ZAgW26_W26.out.keep hbW27)
          clear hbW27 HBW26 HLW26 R0D1_W26 R1D1_W26 R2D1_W26 ZAgW21_W26 ZAgW26_W26
          simp only [Act.put, List.setIfInBounds_toArray, List.set_cons_zero, List.set_cons_succ]
          refine storeW_all (i := 8) (oi := { dst := none, op := Op.store 23 (Operand.tmp 7) (Operand.tmp 14), type := 0, pos := "law.go:46", after := #[{ on := 6, ground := Ground.data }, { on := 2, ground := Ground.data }, { on := 5, ground := Ground.chain }, { on := 0, ground := Ground.phase }, { on := 1, ground := Ground.phase }, { on := 2, ground := Ground.phase }, { on := 3, ground := Ground.textOnly Departure.lateStores }, { on := 4, ground := Ground.textOnly Departure.lateStores }, { on := 5, ground := Ground.textOnly Departure.lateStoresUnsure }, { on := 6, ground := Ground.phase }, { on := 7, ground := Ground.phase }], guard := none }) rfl (by kernel_rfl) (by rfl) 23 (.tmp 7) (.tmp 14) rfl (gW26) rfl (bcs (enc s)).toArray rfl 23 _ ZAgW26_W27.out (by rw [List.size_toArray, bcs_enc_len]; exact size23) (by rw [List.size_toArray, bcs_enc_len]; rfl) (bcs_one _) rfl ?_
          intro W28 hhW28 hgW28 hzW28
          simp only [Act.put, List.setIfInBounds_toArray, List.set_cons_zero, List.set_cons_succ]
          have R0D1_W28 := Lib.hid (R0D1_W27.out.grown hgW28 (by have := HGgW26.out; have := HLTwheapsize.out; simp; omega))
          have R1D1_W28 := Lib.hid (R1D1_W27.out.grown hgW28 (by have := HGgW26.out; have := HLTwheapsizep1.out; simp; omega))
          have R2D1_W28 := Lib.hid (R2D1_W27.out.grown hgW28 (by have := HGgW26.out; have := HLTwheapsizep2.out; simp; omega))
          have ZAgW21_W28 := Lib.hid (ZAgW21_W27.out.grown hgW28 (by have := HXgW21gW26.out; simp; omega))
          have SgW26_W28 : Hid (NAt W28 (gW26) s) := Lib.hid ⟨23, hhW28⟩
          have HBW28 : Hid (Below w.heap.size w W28) := Lib.hid (HBW27.out.grown hgW28 HBW27.out.size (fun r hr => by injection hr with hr; have := HGgW26.out; have := HB_11.out.size; omega))
          have HLW28 : Hid (x11.heap.size ≤ W28.heap.size) := Lib.hid (Nat.le_trans HLW27.out hgW28.size)
          clear hhW28 hgW28 hzW28 HBW27 HLW27 R0D1_W27 R1D1_W27 R2D1_W27 ZAgW21_W27 ZAgW26_W27
          refine storeW_all (i := 9) (oi := { dst := none, op := Op.store 23 (Operand.tmp 8) (Operand.tmp 17), type := 0, pos := "law.go:46", after := #[{ on := 7, ground := Ground.data }, { on := 5, ground := Ground.data }, { on := 8, ground := Ground.chain }, { on := 0, ground := Ground.phase }, { on := 1, ground := Ground.phase }, { on := 2, ground := Ground.phase }, { on := 3, ground := Ground.phase }, { on := 4, ground := Ground.phase }, { on := 5, ground := Ground.phase }, { on := 6, ground := Ground.phase }, { on := 7, ground := Ground.phase }, { on := 8, ground := Ground.phase }], guard := none }) rfl (by kernel_rfl) (by rfl) 23 (.tmp 8) (.tmp 17) rfl (gW21) rfl (bcs (enc p)).toArray rfl 23 _ ZAgW21_W28.out (by rw [List.size_toArray, bcs_enc_len]; exact size23) (by rw [List.size_toArray, bcs_enc_len]; rfl) (bcs_one _) rfl ?_
          intro W29 hhW29 hgW29 hzW29
          simp only [Act.put, List.setIfInBounds_toArray, List.set_cons_zero, List.set_cons_succ]
          have R0D1_W29 := Lib.hid (R0D1_W28.out.grown hgW29 (by have := HGgW21.out; have := HLTwheapsize.out; simp; omega))
          have R1D1_W29 := Lib.hid (R1D1_W28.out.grown hgW29 (by have := HGgW21.out; have := HLTwheapsizep1.out; simp; omega))
          have R2D1_W29 := Lib.hid (R2D1_W28.out.grown hgW29 (by have := HGgW21.out; have := HLTwheapsizep2.out; simp; omega))
          have SgW26_W29 := Lib.hid (SgW26_W28.out.grown hgW29 (by have := HXgW21gW26.out; simp; omega))
          have SgW21_W29 : Hid (NAt W29 (gW21) p) := Lib.hid ⟨23, hhW29⟩
          have HBW29 : Hid (Below w.heap.size w W29) := Lib.hid (HBW28.out.grown hgW29 HBW28.out.size (fun r hr => by injection hr with hr; have := HGgW21.out; have := HB_11.out.size; omega))
          have HLW29 : Hid (x11.heap.size ≤ W29.heap.size) := Lib.hid (Nat.le_trans HLW28.out hgW29.size)
          clear hhW29 hgW29 hzW29 HBW28 HLW28 R0D1_W28 R1D1_W28 R2D1_W28 SgW26_W28 ZAgW21_W28
          refine doneW (by kernel_rfl) ⟨rfl, ?_⟩ _
          exact ⟨gW26, gW21, R0D1_W29.out, R1D1_W29.out, R2D1_W29.out, SgW26_W29.out, SgW21_W29.out, HBW29.out, rfl⟩
    · refine wpOp_value (i := 6) (oi := { dst := some 7, op := Op.alloc 23, type := 0, pos := "law.go:46", after := #[], guard := none }) rfl (by rfl) (exec_alloc 23 rfl (.agg (zbs 32)) zero23 D1) ⟨fun _ => (below_alloc D1 _).mono HLD1.out, ?_⟩
      obtain ⟨W30, hW30, hbW30, hzW30⟩ := alloc_zero D1
      rw [← hW30]
      obtain ⟨gW30, hgW30⟩ : ∃ g, g = D1.heap.size := ⟨_, rfl⟩
      rw [← hgW30] at hzW30 ⊢
      have HGgW30 : Hid (x11.heap.size ≤ gW30) := Lib.hid (by rw [hgW30]; exact HLD1.out)
      have HBW30 : Hid (Below w.heap.size w W30) := Lib.hid (HBD1.out.trans (hbW30.mono HBD1.out.size))
      have HLW30 : Hid (x11.heap.size ≤ W30.heap.size) := Lib.hid (Nat.le_trans HLD1.out hbW30.size)
      have R0D1_W30 := Lib.hid (R0D1.out.keep hbW30)
      have R1D1_W30 := Lib.hid (R1D1.out.keep hbW30)
      have R2D1_W30 := Lib.hid (R2D1.out.keep hbW30)
      have ZAgW30_W30 := Lib.hid hzW30
      clear hbW30 HBD1 HLD1 R0D1 R1D1 R2D1 hzW30 hgW30 hW30
      simp only [Act.put, List.setIfInBounds_toArray, List.set_cons_zero, List.set_cons_succ]
      refine eachW [2, 7] (by kernel_rfl) (by simp) ?_
      intro k hk
      simp only [List.mem_cons, List.not_mem_nil, or_false] at hk
      rcases hk with rfl | rfl
      · refine wpOp_call (i := 2) (oi := { dst := some 14, op := Op.call { callee := Callee.value (Operand.func 23), args := #[Operand.tmp 12, Operand.tmp 13], argTypes := #[23, 23] }, type := 23, pos := "law.go:46", after := #[{ on := 0, ground := Ground.data }, { on := 1, ground := Ground.data }], guard := none }) rfl (by rfl) (exec_callL 23 [.tmp 12, .tmp 13] #[23, 23] rfl [vN A, vN B] rfl (CF23 _)) ((C0.out W30).mono ?_)
        rintro eW31 W31 ⟨rfl, hbW31⟩
        refine ⟨_, rfl, fun _ => hbW31.mono HLW30.out, ?_⟩
        have HBW31 : Hid (Below w.heap.size w W31) := Lib.hid (HBW30.out.trans (hbW31.mono HBW30.out.size))
        have HLW31 : Hid (x11.heap.size ≤ W31.heap.size) := Lib.hid (Nat.le_trans HLW30.out hbW31.size)
        have R0D1_W31 := Lib.hid (R0D1_W30.out.keep hbW31)
        have R1D1_W31 := Lib.hid (R1D1_W30.out.keep hbW31)
        have R2D1_W31 := Lib.hid (R2D1_W30.out.keep hbW31)
        have ZAgW30_W31 := Lib.hid (ZAgW30_W30.out.keep hbW31)
        clear hbW31 HBW30 HLW30 R0D1_W30 R1D1_W30 R2D1_W30 ZAgW30_W30
        simp only [Act.put, List.setIfInBounds_toArray, List.set_cons_zero, List.set_cons_succ]
        refine eachW [5, 7] (by kernel_rfl) (by simp) ?_
        intro k hk
        simp only [List.mem_cons, List.not_mem_nil, or_false] at hk
        rcases hk with rfl | rfl
        · refine wpOp_call (i := 5) (oi := { dst := some 17, op := Op.call { callee := Callee.value (Operand.func 28), args := #[Operand.tmp 15, Operand.tmp 16], argTypes := #[23, 23] }, type := 23, pos := "law.go:46", after := #[{ on := 3, ground := Ground.data }, { on := 4, ground := Ground.data }, { on := 2, ground := Ground.chain }], guard := none }) rfl (by rfl) (exec_callL 28 [.tmp 15, .tmp 16] #[23, 23] rfl [vN A, vN B] rfl (CF28 _)) ((C1.out W31).mono ?_)
          rintro eW32 W32 ⟨rfl, hbW32⟩
          refine ⟨_, rfl, fun _ => hbW32.mono HLW31.out, ?_⟩
          have HBW32 : Hid (Below w.heap.size w W32) := Lib.hid (HBW31.out.trans (hbW32.mono HBW31.out.size))
          have HLW32 : Hid (x11.heap.size ≤ W32.heap.size) := Lib.hid (Nat.le_trans HLW31.out hbW32.size)
          have R0D1_W32 := Lib.hid (R0D1_W31.out.keep hbW32)
          have R1D1_W32 := Lib.hid (R1D1_W31.out.keep hbW32)
          have R2D1_W32 := Lib.hid (R2D1_W31.out.keep hbW32)
          have ZAgW30_W32 := Lib.hid (ZAgW30_W31.out.keep hbW32)
          clear hbW32 HBW31 HLW31 R0D1_W31 R1D1_W31 R2D1_W31 ZAgW30_W31
          simp only [Act.put, List.setIfInBounds_toArray, List.set_cons_zero, List.set_cons_succ]
          refine opW _ _ (i := 7) (oi := { dst := some 8, op := Op.alloc 23, type := 0, pos := "law.go:46", after := #[], guard := none }) rfl (by kernel_rfl) (by rfl) (exec_alloc 23 rfl (.agg (zbs 32)) zero23 W32) (fun _ => (below_alloc W32 _).mono HLW32.out) ?_
          obtain ⟨W33, hW33, hbW33, hzW33⟩ := alloc_zero W32
          rw [← hW33]
          obtain ⟨gW33, hgW33⟩ : ∃ g, g = W32.heap.size := ⟨_, rfl⟩
          rw [← hgW33] at hzW33 ⊢
          have HGgW33 : Hid (x11.heap.size ≤ gW33) := Lib.hid (by rw [hgW33]; exact HLW32.out)
          have HXgW30gW33 : Hid (gW30 ≠ gW33) := Lib.hid (by have := ZAgW30_W32.out.lt; omega)
          have HBW33 : Hid (Below w.heap.size w W33) := Lib.hid (HBW32.out.trans (hbW33.mono HBW32.out.size))
          have HLW33 : Hid (x11.heap.size ≤ W33.heap.size) := Lib.hid (Nat.le_trans HLW32.out hbW33.size)
          have R0D1_W33 := Lib.hid (R0D1_W32.out.keep hbW33)
          have R1D1_W33 := Lib.hid (R1D1_W32.out.keep hbW33)
          have R2D1_W33 := Lib.hid (R2D1_W32.out.keep hbW33)
          have ZAgW30_W33 := Lib.hid (ZAgW30_W32.out.keep hbW33)
          have ZAgW33_W33 := Lib.hid hzW33
          clear hbW33 HBW32 HLW32 R0D1_W32 R1D1_W32 R2D1_W32 ZAgW30_W32 hzW33 hgW33 hW33
          simp only [Act.put, List.setIfInBounds_toArray, List.set_cons_zero, List.set_cons_succ]
          refine storeW_all (i := 8) (oi := { dst := none, op := Op.store 23 (Operand.tmp 7) (Operand.tmp 14), type := 0, pos := "law.go:46", after := #[{ on := 6, ground := Ground.data }, { on := 2, ground := Ground.data }, { on := 5, ground := Ground.chain }, { on := 0, ground := Ground.phase }, { on := 1, ground := Ground.phase }, { on := 2, ground := Ground.phase }, { on := 3, ground := Ground.textOnly Departure.lateStores }, { on := 4, ground := Ground.textOnly Departure.lateStores }, { on := 5, ground := Ground.textOnly Departure.lateStoresUnsure }, { on := 6, ground := Ground.phase }, { on := 7, ground := Ground.phase }], guard := none }) rfl (by kernel_rfl) (by rfl) 23 (.tmp 7) (.tmp 14) rfl (gW30) rfl (bcs (enc s)).toArray rfl 23 _ ZAgW30_W33.out (by rw [List.size_toArray, bcs_enc_len]; exact size23) (by rw [List.size_toArray, bcs_enc_len]; rfl) (bcs_one _) rfl ?_
          intro W34 hhW34 hgW34 hzW34
          simp only [Act.put, List.setIfInBounds_toArray, List.set_cons_zero, List.set_cons_succ]
          have R0D1_W34 := Lib.hid (R0D1_W33.out.grown hgW34 (by have := HGgW30.out; have := HLTwheapsize.out; simp; omega))
          have R1D1_W34 := Lib.hid (R1D1_W33.out.grown hgW34 (by have := HGgW30.out; have := HLTwheapsizep1.out; simp; omega))
          have R2D1_W34 := Lib.hid (R2D1_W33.out.grown hgW34 (by have := HGgW30.out; have := HLTwheapsizep2.out; simp; omega))
          have ZAgW33_W34 := Lib.hid (ZAgW33_W33.out.grown hgW34 (by have := HXgW30gW33.out; simp; omega))
          have SgW30_W34 : Hid (NAt W34 (gW30) s) := Lib.hid ⟨23, hhW34⟩
          have HBW34 : Hid (Below w.heap.size w W34) := Lib.hid (HBW33.out.grown hgW34 HBW33.out.size (fun r hr => by injection hr with hr; have := HGgW30.out; have := HB_11.out.size; omega))
          have HLW34 : Hid (x11.heap.size ≤ W34.heap.size) := Lib.hid (Nat.le_trans HLW33.out hgW34.size)
          clear hhW34 hgW34 hzW34 HBW33 HLW33 R0D1_W33 R1D1_W33 R2D1_W33 ZAgW30_W33 ZAgW33_W33
          refine storeW_all (i := 9) (oi := { dst := none, op := Op.store 23 (Operand.tmp 8) (Operand.tmp 17), type := 0, pos := "law.go:46", after := #[{ on := 7, ground := Ground.data }, { on := 5, ground := Ground.data }, { on := 8, ground := Ground.chain }, { on := 0, ground := Ground.phase }, { on := 1, ground := Ground.phase }, { on := 2, ground := Ground.phase }, { on := 3, ground := Ground.phase }, { on := 4, ground := Ground.phase }, { on := 5, ground := Ground.phase }, { on := 6, ground := Ground.phase }, { on := 7, ground := Ground.phase }, { on := 8, ground := Ground.phase }], guard := none }) rfl (by kernel_rfl) (by rfl) 23 (.tmp 8) (.tmp 17) rfl (gW33) rfl (bcs (enc p)).toArray rfl 23 _ ZAgW33_W34.out (by rw [List.size_toArray, bcs_enc_len]; exact size23) (by rw [List.size_toArray, bcs_enc_len]; rfl) (bcs_one _) rfl ?_
          intro W35 hhW35 hgW35 hzW35
          simp only [Act.put, List.setIfInBounds_toArray, List.set_cons_zero, List.set_cons_succ]
          have R0D1_W35 := Lib.hid (R0D1_W34.out.grown hgW35 (by have := HGgW33.out; have := HLTwheapsize.out; simp; omega))
          have R1D1_W35 := Lib.hid (R1D1_W34.out.grown hgW35 (by have := HGgW33.out; have := HLTwheapsizep1.out; simp; omega))
          have R2D1_W35 := Lib.hid (R2D1_W34.out.grown hgW35 (by have := HGgW33.out; have := HLTwheapsizep2.out; simp; omega))
          have SgW30_W35 := Lib.hid (SgW30_W34.out.grown hgW35 (by have := HXgW30gW33.out; simp; omega))
          have SgW33_W35 : Hid (NAt W35 (gW33) p) := Lib.hid ⟨23, hhW35⟩
          have HBW35 : Hid (Below w.heap.size w W35) := Lib.hid (HBW34.out.grown hgW35 HBW34.out.size (fun r hr => by injection hr with hr; have := HGgW33.out; have := HB_11.out.size; omega))
          have HLW35 : Hid (x11.heap.size ≤ W35.heap.size) := Lib.hid (Nat.le_trans HLW34.out hgW35.size)
          clear hhW35 hgW35 hzW35 HBW34 HLW34 R0D1_W34 R1D1_W34 R2D1_W34 SgW30_W34 ZAgW33_W34
          refine doneW (by kernel_rfl) ⟨rfl, ?_⟩ _
          exact ⟨gW30, gW33, R0D1_W35.out, R1D1_W35.out, R2D1_W35.out, SgW30_W35.out, SgW33_W35.out, HBW35.out, rfl⟩
        · refine wpOp_value (i := 7) (oi := { dst := some 8, op := Op.alloc 23, type := 0, pos := "law.go:46", after := #[], guard := none }) rfl (by rfl) (exec_alloc 23 rfl (.agg (zbs 32)) zero23 W31) ⟨fun _ => (below_alloc W31 _).mono HLW31.out, ?_⟩
          obtain ⟨W36, hW36, hbW36, hzW36⟩ := alloc_zero W31
          rw [← hW36]
          obtain ⟨gW36, hgW36⟩ : ∃ g, g = W31.heap.size := ⟨_, rfl⟩
          rw [← hgW36] at hzW36 ⊢
          have HGgW36 : Hid (x11.heap.size ≤ gW36) := Lib.hid (by rw [hgW36]; exact HLW31.out)
          have HXgW30gW36 : Hid (gW30 ≠ gW36) := Lib.hid (by have := ZAgW30_W31.out.lt; omega)
          have HBW36 : Hid (Below w.heap.size w W36) := Lib.hid (HBW31.out.trans (hbW36.mono HBW31.out.size))
          have HLW36 : Hid (x11.heap.size ≤ W36.heap.size) := Lib.hid (Nat.le_trans HLW31.out hbW36.size)
          have R0D1_W36 := Lib.hid (R0D1_W31.out.keep hbW36)
          have R1D1_W36 := Lib.hid (R1D1_W31.out.keep hbW36)
          have R2D1_W36 := Lib.hid (R2D1_W31.out.keep hbW36)
          have ZAgW30_W36 := Lib.hid (ZAgW30_W31.out.keep hbW36)
          have ZAgW36_W36 := Lib.hid hzW36
          clear hbW36 HBW31 HLW31 R0D1_W31 R1D1_W31 R2D1_W31 ZAgW30_W31 hzW36 hgW36 hW36
          simp only [Act.put, List.setIfInBounds_toArray, List.set_cons_zero, List.set_cons_succ]
          refine callW (i := 5) (oi := { dst := some 17, op := Op.call { callee := Callee.value (Operand.func 28), args := #[Operand.tmp 15, Operand.tmp 16], argTypes := #[23, 23] }, type := 23, pos := "law.go:46", after := #[{ on := 3, ground := Ground.data }, { on := 4, ground := Ground.data }, { on := 2, ground := Ground.chain }], guard := none }) rfl (by kernel_rfl) (by rfl) (exec_callL 28 [.tmp 15, .tmp 16] #[23, 23] rfl [vN A, vN B] rfl (CF28 _)) ((C1.out W36).mono ?_)
          rintro eW37 W37 ⟨rfl, hbW37⟩
          refine ⟨_, rfl, fun _ => hbW37.mono HLW36.out, ?_⟩
          have HBW37 : Hid (Below w.heap.size w W37) := Lib.hid (HBW36.out.trans (hbW37.mono HBW36.out.size))
          have HLW37 : Hid (x11.heap.size ≤ W37.heap.size) := Lib.hid (Nat.le_trans HLW36.out hbW37.size)
          have R0D1_W37 := Lib.hid (R0D1_W36.out.keep hbW37)
          have R1D1_W37 := Lib.hid (R1D1_W36.out.keep hbW37)
          have R2D1_W37 := Lib.hid (R2D1_W36.out.keep hbW37)
          have ZAgW30_W37 := Lib.hid (ZAgW30_W36.out.keep hbW37)
          have ZAgW36_W37 := Lib.hid (ZAgW36_W36.out.keep hbW37)
          clear hbW37 HBW36 HLW36 R0D1_W36 R1D1_W36 R2D1_W36 ZAgW30_W36 ZAgW36_W36
          simp only [Act.put, List.setIfInBounds_toArray, List.set_cons_zero, List.set_cons_succ]
          refine storeW_all (i := 8) (oi := { dst := none, op := Op.store 23 (Operand.tmp 7) (Operand.tmp 14), type := 0, pos := "law.go:46", after := #[{ on := 6, ground := Ground.data }, { on := 2, ground := Ground.data }, { on := 5, ground := Ground.chain }, { on := 0, ground := Ground.phase }, { on := 1, ground := Ground.phase }, { on := 2, ground := Ground.phase }, { on := 3, ground := Ground.textOnly Departure.lateStores }, { on := 4, ground := Ground.textOnly Departure.lateStores }, { on := 5, ground := Ground.textOnly Departure.lateStoresUnsure }, { on := 6, ground := Ground.phase }, { on := 7, ground := Ground.phase }], guard := none }) rfl (by kernel_rfl) (by rfl) 23 (.tmp 7) (.tmp 14) rfl (gW30) rfl (bcs (enc s)).toArray rfl 23 _ ZAgW30_W37.out (by rw [List.size_toArray, bcs_enc_len]; exact size23) (by rw [List.size_toArray, bcs_enc_len]; rfl) (bcs_one _) rfl ?_
          intro W38 hhW38 hgW38 hzW38
          simp only [Act.put, List.setIfInBounds_toArray, List.set_cons_zero, List.set_cons_succ]
          have R0D1_W38 := Lib.hid (R0D1_W37.out.grown hgW38 (by have := HGgW30.out; have := HLTwheapsize.out; simp; omega))
          have R1D1_W38 := Lib.hid (R1D1_W37.out.grown hgW38 (by have := HGgW30.out; have := HLTwheapsizep1.out; simp; omega))
          have R2D1_W38 := Lib.hid (R2D1_W37.out.grown hgW38 (by have := HGgW30.out; have := HLTwheapsizep2.out; simp; omega))
          have ZAgW36_W38 := Lib.hid (ZAgW36_W37.out.grown hgW38 (by have := HXgW30gW36.out; simp; omega))
          have SgW30_W38 : Hid (NAt W38 (gW30) s) := Lib.hid ⟨23, hhW38⟩
          have HBW38 : Hid (Below w.heap.size w W38) := Lib.hid (HBW37.out.grown hgW38 HBW37.out.size (fun r hr => by injection hr with hr; have := HGgW30.out; have := HB_11.out.size; omega))
          have HLW38 : Hid (x11.heap.size ≤ W38.heap.size) := Lib.hid (Nat.le_trans HLW37.out hgW38.size)
          clear hhW38 hgW38 hzW38 HBW37 HLW37 R0D1_W37 R1D1_W37 R2D1_W37 ZAgW30_W37 ZAgW36_W37
          refine storeW_all (i := 9) (oi := { dst := none, op := Op.store 23 (Operand.tmp 8) (Operand.tmp 17), type := 0, pos := "law.go:46", after := #[{ on := 7, ground := Ground.data }, { on := 5, ground := Ground.data }, { on := 8, ground := Ground.chain }, { on := 0, ground := Ground.phase }, { on := 1, ground := Ground.phase }, { on := 2, ground := Ground.phase }, { on := 3, ground := Ground.phase }, { on := 4, ground := Ground.phase }, { on := 5, ground := Ground.phase }, { on := 6, ground := Ground.phase }, { on := 7, ground := Ground.phase }, { on := 8, ground := Ground.phase }], guard := none }) rfl (by kernel_rfl) (by rfl) 23 (.tmp 8) (.tmp 17) rfl (gW36) rfl (bcs (enc p)).toArray rfl 23 _ ZAgW36_W38.out (by rw [List.size_toArray, bcs_enc_len]; exact size23) (by rw [List.size_toArray, bcs_enc_len]; rfl) (bcs_one _) rfl ?_
          intro W39 hhW39 hgW39 hzW39
          simp only [Act.put, List.setIfInBounds_toArray, List.set_cons_zero, List.set_cons_succ]
          have R0D1_W39 := Lib.hid (R0D1_W38.out.grown hgW39 (by have := HGgW36.out; have := HLTwheapsize.out; simp; omega))
          have R1D1_W39 := Lib.hid (R1D1_W38.out.grown hgW39 (by have := HGgW36.out; have := HLTwheapsizep1.out; simp; omega))
          have R2D1_W39 := Lib.hid (R2D1_W38.out.grown hgW39 (by have := HGgW36.out; have := HLTwheapsizep2.out; simp; omega))
          have SgW30_W39 := Lib.hid (SgW30_W38.out.grown hgW39 (by have := HXgW30gW36.out; simp; omega))
          have SgW36_W39 : Hid (NAt W39 (gW36) p) := Lib.hid ⟨23, hhW39⟩
          have HBW39 : Hid (Below w.heap.size w W39) := Lib.hid (HBW38.out.grown hgW39 HBW38.out.size (fun r hr => by injection hr with hr; have := HGgW36.out; have := HB_11.out.size; omega))
          have HLW39 : Hid (x11.heap.size ≤ W39.heap.size) := Lib.hid (Nat.le_trans HLW38.out hgW39.size)
          clear hhW39 hgW39 hzW39 HBW38 HLW38 R0D1_W38 R1D1_W38 R2D1_W38 SgW30_W38 ZAgW36_W38
          refine doneW (by kernel_rfl) ⟨rfl, ?_⟩ _
          exact ⟨gW30, gW36, R0D1_W39.out, R1D1_W39.out, R2D1_W39.out, SgW30_W39.out, SgW36_W39.out, HBW39.out, rfl⟩
      · refine wpOp_value (i := 7) (oi := { dst := some 8, op := Op.alloc 23, type := 0, pos := "law.go:46", after := #[], guard := none }) rfl (by rfl) (exec_alloc 23 rfl (.agg (zbs 32)) zero23 W30) ⟨fun _ => (below_alloc W30 _).mono HLW30.out, ?_⟩
        obtain ⟨W40, hW40, hbW40, hzW40⟩ := alloc_zero W30
        rw [← hW40]
        obtain ⟨gW40, hgW40⟩ : ∃ g, g = W30.heap.size := ⟨_, rfl⟩
        rw [← hgW40] at hzW40 ⊢
        have HGgW40 : Hid (x11.heap.size ≤ gW40) := Lib.hid (by rw [hgW40]; exact HLW30.out)
        have HXgW30gW40 : Hid (gW30 ≠ gW40) := Lib.hid (by have := ZAgW30_W30.out.lt; omega)
        have HBW40 : Hid (Below w.heap.size w W40) := Lib.hid (HBW30.out.trans (hbW40.mono HBW30.out.size))
        have HLW40 : Hid (x11.heap.size ≤ W40.heap.size) := Lib.hid (Nat.le_trans HLW30.out hbW40.size)
        have R0D1_W40 := Lib.hid (R0D1_W30.out.keep hbW40)
        have R1D1_W40 := Lib.hid (R1D1_W30.out.keep hbW40)
        have R2D1_W40 := Lib.hid (R2D1_W30.out.keep hbW40)
        have ZAgW30_W40 := Lib.hid (ZAgW30_W30.out.keep hbW40)
        have ZAgW40_W40 := Lib.hid hzW40
        clear hbW40 HBW30 HLW30 R0D1_W30 R1D1_W30 R2D1_W30 ZAgW30_W30 hzW40 hgW40 hW40
        simp only [Act.put, List.setIfInBounds_toArray, List.set_cons_zero, List.set_cons_succ]
        refine callW (i := 2) (oi := { dst := some 14, op := Op.call { callee := Callee.value (Operand.func 23), args := #[Operand.tmp 12, Operand.tmp 13], argTypes := #[23, 23] }, type := 23, pos := "law.go:46", after := #[{ on := 0, ground := Ground.data }, { on := 1, ground := Ground.data }], guard := none }) rfl (by kernel_rfl) (by rfl) (exec_callL 23 [.tmp 12, .tmp 13] #[23, 23] rfl [vN A, vN B] rfl (CF23 _)) ((C0.out W40).mono ?_)
        rintro eW41 W41 ⟨rfl, hbW41⟩
        refine ⟨_, rfl, fun _ => hbW41.mono HLW40.out, ?_⟩
        have HBW41 : Hid (Below w.heap.size w W41) := Lib.hid (HBW40.out.trans (hbW41.mono HBW40.out.size))
        have HLW41 : Hid (x11.heap.size ≤ W41.heap.size) := Lib.hid (Nat.le_trans HLW40.out hbW41.size)
        have R0D1_W41 := Lib.hid (R0D1_W40.out.keep hbW41)
        have R1D1_W41 := Lib.hid (R1D1_W40.out.keep hbW41)
        have R2D1_W41 := Lib.hid (R2D1_W40.out.keep hbW41)
        have ZAgW30_W41 := Lib.hid (ZAgW30_W40.out.keep hbW41)
        have ZAgW40_W41 := Lib.hid (ZAgW40_W40.out.keep hbW41)
        clear hbW41 HBW40 HLW40 R0D1_W40 R1D1_W40 R2D1_W40 ZAgW30_W40 ZAgW40_W40
        simp only [Act.put, List.setIfInBounds_toArray, List.set_cons_zero, List.set_cons_succ]
        refine callW (i := 5) (oi := { dst := some 17, op := Op.call { callee := Callee.value (Operand.func 28), args := #[Operand.tmp 15, Operand.tmp 16], argTypes := #[23, 23] }, type := 23, pos := "law.go:46", after := #[{ on := 3, ground := Ground.data }, { on := 4, ground := Ground.data }, { on := 2, ground := Ground.chain }], guard := none }) rfl (by kernel_rfl) (by rfl) (exec_callL 28 [.tmp 15, .tmp 16] #[23, 23] rfl [vN A, vN B] rfl (CF28 _)) ((C1.out W41).mono ?_)
        rintro eW42 W42 ⟨rfl, hbW42⟩
        refine ⟨_, rfl, fun _ => hbW42.mono HLW41.out, ?_⟩
        have HBW42 : Hid (Below w.heap.size w W42) := Lib.hid (HBW41.out.trans (hbW42.mono HBW41.out.size))
        have HLW42 : Hid (x11.heap.size ≤ W42.heap.size) := Lib.hid (Nat.le_trans HLW41.out hbW42.size)
        have R0D1_W42 := Lib.hid (R0D1_W41.out.keep hbW42)
        have R1D1_W42 := Lib.hid (R1D1_W41.out.keep hbW42)
        have R2D1_W42 := Lib.hid (R2D1_W41.out.keep hbW42)
        have ZAgW30_W42 := Lib.hid (ZAgW30_W41.out.keep hbW42)
        have ZAgW40_W42 := Lib.hid (ZAgW40_W41.out.keep hbW42)
        clear hbW42 HBW41 HLW41 R0D1_W41 R1D1_W41 R2D1_W41 ZAgW30_W41 ZAgW40_W41
        simp only [Act.put, List.setIfInBounds_toArray, List.set_cons_zero, List.set_cons_succ]
        refine storeW_all (i := 8) (oi := { dst := none, op := Op.store 23 (Operand.tmp 7) (Operand.tmp 14), type := 0, pos := "law.go:46", after := #[{ on := 6, ground := Ground.data }, { on := 2, ground := Ground.data }, { on := 5, ground := Ground.chain }, { on := 0, ground := Ground.phase }, { on := 1, ground := Ground.phase }, { on := 2, ground := Ground.phase }, { on := 3, ground := Ground.textOnly Departure.lateStores }, { on := 4, ground := Ground.textOnly Departure.lateStores }, { on := 5, ground := Ground.textOnly Departure.lateStoresUnsure }, { on := 6, ground := Ground.phase }, { on := 7, ground := Ground.phase }], guard := none }) rfl (by kernel_rfl) (by rfl) 23 (.tmp 7) (.tmp 14) rfl (gW30) rfl (bcs (enc s)).toArray rfl 23 _ ZAgW30_W42.out (by rw [List.size_toArray, bcs_enc_len]; exact size23) (by rw [List.size_toArray, bcs_enc_len]; rfl) (bcs_one _) rfl ?_
        intro W43 hhW43 hgW43 hzW43
        simp only [Act.put, List.setIfInBounds_toArray, List.set_cons_zero, List.set_cons_succ]
        have R0D1_W43 := Lib.hid (R0D1_W42.out.grown hgW43 (by have := HGgW30.out; have := HLTwheapsize.out; simp; omega))
        have R1D1_W43 := Lib.hid (R1D1_W42.out.grown hgW43 (by have := HGgW30.out; have := HLTwheapsizep1.out; simp; omega))
        have R2D1_W43 := Lib.hid (R2D1_W42.out.grown hgW43 (by have := HGgW30.out; have := HLTwheapsizep2.out; simp; omega))
        have ZAgW40_W43 := Lib.hid (ZAgW40_W42.out.grown hgW43 (by have := HXgW30gW40.out; simp; omega))
        have SgW30_W43 : Hid (NAt W43 (gW30) s) := Lib.hid ⟨23, hhW43⟩
        have HBW43 : Hid (Below w.heap.size w W43) := Lib.hid (HBW42.out.grown hgW43 HBW42.out.size (fun r hr => by injection hr with hr; have := HGgW30.out; have := HB_11.out.size; omega))
        have HLW43 : Hid (x11.heap.size ≤ W43.heap.size) := Lib.hid (Nat.le_trans HLW42.out hgW43.size)
        clear hhW43 hgW43 hzW43 HBW42 HLW42 R0D1_W42 R1D1_W42 R2D1_W42 ZAgW30_W42 ZAgW40_W42
        refine storeW_all (i := 9) (oi := { dst := none, op := Op.store 23 (Operand.tmp 8) (Operand.tmp 17), type := 0, pos := "law.go:46", after := #[{ on := 7, ground := Ground.data }, { on := 5, ground := Ground.data }, { on := 8, ground := Ground.chain }, { on := 0, ground := Ground.phase }, { on := 1, ground := Ground.phase }, { on := 2, ground := Ground.phase }, { on := 3, ground := Ground.phase }, { on := 4, ground := Ground.phase }, { on := 5, ground := Ground.phase }, { on := 6, ground := Ground.phase }, { on := 7, ground := Ground.phase }, { on := 8, ground := Ground.phase }], guard := none }) rfl (by kernel_rfl) (by rfl) 23 (.tmp 8) (.tmp 17) rfl (gW40) rfl (bcs (enc p)).toArray rfl 23 _ ZAgW40_W43.out (by rw [List.size_toArray, bcs_enc_len]; exact size23) (by rw [List.size_toArray, bcs_enc_len]; rfl) (bcs_one _) rfl ?_
        intro W44 hhW44 hgW44 hzW44
        simp only [Act.put, List.setIfInBounds_toArray, List.set_cons_zero, List.set_cons_succ]
        have R0D1_W44 := Lib.hid (R0D1_W43.out.grown hgW44 (by have := HGgW40.out; have := HLTwheapsize.out; simp; omega))
        have R1D1_W44 := Lib.hid (R1D1_W43.out.grown hgW44 (by have := HGgW40.out; have := HLTwheapsizep1.out; simp; omega))
        have R2D1_W44 := Lib.hid (R2D1_W43.out.grown hgW44 (by have := HGgW40.out; have := HLTwheapsizep2.out; simp; omega))
        have SgW30_W44 := Lib.hid (SgW30_W43.out.grown hgW44 (by have := HXgW30gW40.out; simp; omega))
        have SgW40_W44 : Hid (NAt W44 (gW40) p) := Lib.hid ⟨23, hhW44⟩
        have HBW44 : Hid (Below w.heap.size w W44) := Lib.hid (HBW43.out.grown hgW44 HBW43.out.size (fun r hr => by injection hr with hr; have := HGgW40.out; have := HB_11.out.size; omega))
        have HLW44 : Hid (x11.heap.size ≤ W44.heap.size) := Lib.hid (Nat.le_trans HLW43.out hgW44.size)
        clear hhW44 hgW44 hzW44 HBW43 HLW43 R0D1_W43 R1D1_W43 R2D1_W43 SgW30_W43 ZAgW40_W43
        refine doneW (by kernel_rfl) ⟨rfl, ?_⟩ _
        exact ⟨gW30, gW40, R0D1_W44.out, R1D1_W44.out, R2D1_W44.out, SgW30_W44.out, SgW40_W44.out, HBW44.out, rfl⟩
    · refine wpOp_value (i := 7) (oi := { dst := some 8, op := Op.alloc 23, type := 0, pos := "law.go:46", after := #[], guard := none }) rfl (by rfl) (exec_alloc 23 rfl (.agg (zbs 32)) zero23 D1) ⟨fun _ => (below_alloc D1 _).mono HLD1.out, ?_⟩
      obtain ⟨W45, hW45, hbW45, hzW45⟩ := alloc_zero D1
      rw [← hW45]
      obtain ⟨gW45, hgW45⟩ : ∃ g, g = D1.heap.size := ⟨_, rfl⟩
      rw [← hgW45] at hzW45 ⊢
      have HGgW45 : Hid (x11.heap.size ≤ gW45) := Lib.hid (by rw [hgW45]; exact HLD1.out)
      have HBW45 : Hid (Below w.heap.size w W45) := Lib.hid (HBD1.out.trans (hbW45.mono HBD1.out.size))
      have HLW45 : Hid (x11.heap.size ≤ W45.heap.size) := Lib.hid (Nat.le_trans HLD1.out hbW45.size)
      have R0D1_W45 := Lib.hid (R0D1.out.keep hbW45)
      have R1D1_W45 := Lib.hid (R1D1.out.keep hbW45)
      have R2D1_W45 := Lib.hid (R2D1.out.keep hbW45)
      have ZAgW45_W45 := Lib.hid hzW45
      clear hbW45 HBD1 HLD1 R0D1 R1D1 R2D1 hzW45 hgW45 hW45
      simp only [Act.put, List.setIfInBounds_toArray, List.set_cons_zero, List.set_cons_succ]
      refine eachW [2, 6] (by kernel_rfl) (by simp) ?_
      intro k hk
      simp only [List.mem_cons, List.not_mem_nil, or_false] at hk
      rcases hk with rfl | rfl
      · refine wpOp_call (i := 2) (oi := { dst := some 14, op := Op.call { callee := Callee.value (Operand.func 23), args := #[Operand.tmp 12, Operand.tmp 13], argTypes := #[23, 23] }, type := 23, pos := "law.go:46", after := #[{ on := 0, ground := Ground.data }, { on := 1, ground := Ground.data }], guard := none }) rfl (by rfl) (exec_callL 23 [.tmp 12, .tmp 13] #[23, 23] rfl [vN A, vN B] rfl (CF23 _)) ((C0.out W45).mono ?_)
        rintro eW46 W46 ⟨rfl, hbW46⟩
        refine ⟨_, rfl, fun _ => hbW46.mono HLW45.out, ?_⟩
        have HBW46 : Hid (Below w.heap.size w W46) := Lib.hid (HBW45.out.trans (hbW46.mono HBW45.out.size))
        have HLW46 : Hid (x11.heap.size ≤ W46.heap.size) := Lib.hid (Nat.le_trans HLW45.out hbW46.size)
        have R0D1_W46 := Lib.hid (R0D1_W45.out.keep hbW46)
        have R1D1_W46 := Lib.hid (R1D1_W45.out.keep hbW46)
        have R2D1_W46 := Lib.hid (R2D1_W45.out.keep hbW46)
        have ZAgW45_W46 := Lib.hid (ZAgW45_W45.out.keep hbW46)
        clear hbW46 HBW45 HLW45 R0D1_W45 R1D1_W45 R2D1_W45 ZAgW45_W45
        simp only [Act.put, List.setIfInBounds_toArray, List.set_cons_zero, List.set_cons_succ]
        refine eachW [5, 6] (by kernel_rfl) (by simp) ?_
        intro k hk
        simp only [List.mem_cons, List.not_mem_nil, or_false] at hk
        rcases hk with rfl | rfl
        · refine wpOp_call (i := 5) (oi := { dst := some 17, op := Op.call { callee := Callee.value (Operand.func 28), args := #[Operand.tmp 15, Operand.tmp 16], argTypes := #[23, 23] }, type := 23, pos := "law.go:46", after := #[{ on := 3, ground := Ground.data }, { on := 4, ground := Ground.data }, { on := 2, ground := Ground.chain }], guard := none }) rfl (by rfl) (exec_callL 28 [.tmp 15, .tmp 16] #[23, 23] rfl [vN A, vN B] rfl (CF28 _)) ((C1.out W46).mono ?_)
          rintro eW47 W47 ⟨rfl, hbW47⟩
          refine ⟨_, rfl, fun _ => hbW47.mono HLW46.out, ?_⟩
          have HBW47 : Hid (Below w.heap.size w W47) := Lib.hid (HBW46.out.trans (hbW47.mono HBW46.out.size))
          have HLW47 : Hid (x11.heap.size ≤ W47.heap.size) := Lib.hid (Nat.le_trans HLW46.out hbW47.size)
          have R0D1_W47 := Lib.hid (R0D1_W46.out.keep hbW47)
          have R1D1_W47 := Lib.hid (R1D1_W46.out.keep hbW47)
          have R2D1_W47 := Lib.hid (R2D1_W46.out.keep hbW47)
          have ZAgW45_W47 := Lib.hid (ZAgW45_W46.out.keep hbW47)
          clear hbW47 HBW46 HLW46 R0D1_W46 R1D1_W46 R2D1_W46 ZAgW45_W46
          simp only [Act.put, List.setIfInBounds_toArray, List.set_cons_zero, List.set_cons_succ]
          refine opW _ _ (i := 6) (oi := { dst := some 7, op := Op.alloc 23, type := 0, pos := "law.go:46", after := #[], guard := none }) rfl (by kernel_rfl) (by rfl) (exec_alloc 23 rfl (.agg (zbs 32)) zero23 W47) (fun _ => (below_alloc W47 _).mono HLW47.out) ?_
          obtain ⟨W48, hW48, hbW48, hzW48⟩ := alloc_zero W47
          rw [← hW48]
          obtain ⟨gW48, hgW48⟩ : ∃ g, g = W47.heap.size := ⟨_, rfl⟩
          rw [← hgW48] at hzW48 ⊢
          have HGgW48 : Hid (x11.heap.size ≤ gW48) := Lib.hid (by rw [hgW48]; exact HLW47.out)
          have HXgW45gW48 : Hid (gW45 ≠ gW48) := Lib.hid (by have := ZAgW45_W47.out.lt; omega)
          have HBW48 : Hid (Below w.heap.size w W48) := Lib.hid (HBW47.out.trans (hbW48.mono HBW47.out.size))
          have HLW48 : Hid (x11.heap.size ≤ W48.heap.size) := Lib.hid (Nat.le_trans HLW47.out hbW48.size)
          have R0D1_W48 := Lib.hid (R0D1_W47.out.keep hbW48)
          have R1D1_W48 := Lib.hid (R1D1_W47.out.keep hbW48)
          have R2D1_W48 := Lib.hid (R2D1_W47.out.keep hbW48)
          have ZAgW45_W48 := Lib.hid (ZAgW45_W47.out.keep hbW48)
          have ZAgW48_W48 := Lib.hid hzW48
          clear hbW48 HBW47 HLW47 R0D1_W47 R1D1_W47 R2D1_W47 ZAgW45_W47 hzW48 hgW48 hW48
          simp only [Act.put, List.setIfInBounds_toArray, List.set_cons_zero, List.set_cons_succ]
          refine storeW_all (i := 8) (oi := { dst := none, op := Op.store 23 (Operand.tmp 7) (Operand.tmp 14), type := 0, pos := "law.go:46", after := #[{ on := 6, ground := Ground.data }, { on := 2, ground := Ground.data }, { on := 5, ground := Ground.chain }, { on := 0, ground := Ground.phase }, { on := 1, ground := Ground.phase }, { on := 2, ground := Ground.phase }, { on := 3, ground := Ground.textOnly Departure.lateStores }, { on := 4, ground := Ground.textOnly Departure.lateStores }, { on := 5, ground := Ground.textOnly Departure.lateStoresUnsure }, { on := 6, ground := Ground.phase }, { on := 7, ground := Ground.phase }], guard := none }) rfl (by kernel_rfl) (by rfl) 23 (.tmp 7) (.tmp 14) rfl (gW48) rfl (bcs (enc s)).toArray rfl 23 _ ZAgW48_W48.out (by rw [List.size_toArray, bcs_enc_len]; exact size23) (by rw [List.size_toArray, bcs_enc_len]; rfl) (bcs_one _) rfl ?_
          intro W49 hhW49 hgW49 hzW49
          simp only [Act.put, List.setIfInBounds_toArray, List.set_cons_zero, List.set_cons_succ]
          have R0D1_W49 := Lib.hid (R0D1_W48.out.grown hgW49 (by have := HGgW48.out; have := HLTwheapsize.out; simp; omega))
          have R1D1_W49 := Lib.hid (R1D1_W48.out.grown hgW49 (by have := HGgW48.out; have := HLTwheapsizep1.out; simp; omega))
          have R2D1_W49 := Lib.hid (R2D1_W48.out.grown hgW49 (by have := HGgW48.out; have := HLTwheapsizep2.out; simp; omega))
          have ZAgW45_W49 := Lib.hid (ZAgW45_W48.out.grown hgW49 (by have := HXgW45gW48.out; simp; omega))
          have SgW48_W49 : Hid (NAt W49 (gW48) s) := Lib.hid ⟨23, hhW49⟩
          have HBW49 : Hid (Below w.heap.size w W49) := Lib.hid (HBW48.out.grown hgW49 HBW48.out.size (fun r hr => by injection hr with hr; have := HGgW48.out; have := HB_11.out.size; omega))
          have HLW49 : Hid (x11.heap.size ≤ W49.heap.size) := Lib.hid (Nat.le_trans HLW48.out hgW49.size)
          clear hhW49 hgW49 hzW49 HBW48 HLW48 R0D1_W48 R1D1_W48 R2D1_W48 ZAgW45_W48 ZAgW48_W48
          refine storeW_all (i := 9) (oi := { dst := none, op := Op.store 23 (Operand.tmp 8) (Operand.tmp 17), type := 0, pos := "law.go:46", after := #[{ on := 7, ground := Ground.data }, { on := 5, ground := Ground.data }, { on := 8, ground := Ground.chain }, { on := 0, ground := Ground.phase }, { on := 1, ground := Ground.phase }, { on := 2, ground := Ground.phase }, { on := 3, ground := Ground.phase }, { on := 4, ground := Ground.phase }, { on := 5, ground := Ground.phase }, { on := 6, ground := Ground.phase }, { on := 7, ground := Ground.phase }, { on := 8, ground := Ground.phase }], guard := none }) rfl (by kernel_rfl) (by rfl) 23 (.tmp 8) (.tmp 17) rfl (gW45) rfl (bcs (enc p)).toArray rfl 23 _ ZAgW45_W49.out (by rw [List.size_toArray, bcs_enc_len]; exact size23) (by rw [List.size_toArray, bcs_enc_len]; rfl) (bcs_one _) rfl ?_
          intro W50 hhW50 hgW50 hzW50
          simp only [Act.put, List.setIfInBounds_toArray, List.set_cons_zero, List.set_cons_succ]
          have R0D1_W50 := Lib.hid (R0D1_W49.out.grown hgW50 (by have := HGgW45.out; have := HLTwheapsize.out; simp; omega))
          have R1D1_W50 := Lib.hid (R1D1_W49.out.grown hgW50 (by have := HGgW45.out; have := HLTwheapsizep1.out; simp; omega))
          have R2D1_W50 := Lib.hid (R2D1_W49.out.grown hgW50 (by have := HGgW45.out; have := HLTwheapsizep2.out; simp; omega))
          have SgW48_W50 := Lib.hid (SgW48_W49.out.grown hgW50 (by have := HXgW45gW48.out; simp; omega))
          have SgW45_W50 : Hid (NAt W50 (gW45) p) := Lib.hid ⟨23, hhW50⟩
          have HBW50 : Hid (Below w.heap.size w W50) := Lib.hid (HBW49.out.grown hgW50 HBW49.out.size (fun r hr => by injection hr with hr; have := HGgW45.out; have := HB_11.out.size; omega))
          have HLW50 : Hid (x11.heap.size ≤ W50.heap.size) := Lib.hid (Nat.le_trans HLW49.out hgW50.size)
          clear hhW50 hgW50 hzW50 HBW49 HLW49 R0D1_W49 R1D1_W49 R2D1_W49 SgW48_W49 ZAgW45_W49
          refine doneW (by kernel_rfl) ⟨rfl, ?_⟩ _
          exact ⟨gW48, gW45, R0D1_W50.out, R1D1_W50.out, R2D1_W50.out, SgW48_W50.out, SgW45_W50.out, HBW50.out, rfl⟩
        · refine wpOp_value (i := 6) (oi := { dst := some 7, op := Op.alloc 23, type := 0, pos := "law.go:46", after := #[], guard := none }) rfl (by rfl) (exec_alloc 23 rfl (.agg (zbs 32)) zero23 W46) ⟨fun _ => (below_alloc W46 _).mono HLW46.out, ?_⟩
          obtain ⟨W51, hW51, hbW51, hzW51⟩ := alloc_zero W46
          rw [← hW51]
          obtain ⟨gW51, hgW51⟩ : ∃ g, g = W46.heap.size := ⟨_, rfl⟩
          rw [← hgW51] at hzW51 ⊢
          have HGgW51 : Hid (x11.heap.size ≤ gW51) := Lib.hid (by rw [hgW51]; exact HLW46.out)
          have HXgW45gW51 : Hid (gW45 ≠ gW51) := Lib.hid (by have := ZAgW45_W46.out.lt; omega)
          have HBW51 : Hid (Below w.heap.size w W51) := Lib.hid (HBW46.out.trans (hbW51.mono HBW46.out.size))
          have HLW51 : Hid (x11.heap.size ≤ W51.heap.size) := Lib.hid (Nat.le_trans HLW46.out hbW51.size)
          have R0D1_W51 := Lib.hid (R0D1_W46.out.keep hbW51)
          have R1D1_W51 := Lib.hid (R1D1_W46.out.keep hbW51)
          have R2D1_W51 := Lib.hid (R2D1_W46.out.keep hbW51)
          have ZAgW45_W51 := Lib.hid (ZAgW45_W46.out.keep hbW51)
          have ZAgW51_W51 := Lib.hid hzW51
          clear hbW51 HBW46 HLW46 R0D1_W46 R1D1_W46 R2D1_W46 ZAgW45_W46 hzW51 hgW51 hW51
          simp only [Act.put, List.setIfInBounds_toArray, List.set_cons_zero, List.set_cons_succ]
          refine callW (i := 5) (oi := { dst := some 17, op := Op.call { callee := Callee.value (Operand.func 28), args := #[Operand.tmp 15, Operand.tmp 16], argTypes := #[23, 23] }, type := 23, pos := "law.go:46", after := #[{ on := 3, ground := Ground.data }, { on := 4, ground := Ground.data }, { on := 2, ground := Ground.chain }], guard := none }) rfl (by kernel_rfl) (by rfl) (exec_callL 28 [.tmp 15, .tmp 16] #[23, 23] rfl [vN A, vN B] rfl (CF28 _)) ((C1.out W51).mono ?_)
          rintro eW52 W52 ⟨rfl, hbW52⟩
          refine ⟨_, rfl, fun _ => hbW52.mono HLW51.out, ?_⟩
          have HBW52 : Hid (Below w.heap.size w W52) := Lib.hid (HBW51.out.trans (hbW52.mono HBW51.out.size))
          have HLW52 : Hid (x11.heap.size ≤ W52.heap.size) := Lib.hid (Nat.le_trans HLW51.out hbW52.size)
          have R0D1_W52 := Lib.hid (R0D1_W51.out.keep hbW52)
          have R1D1_W52 := Lib.hid (R1D1_W51.out.keep hbW52)
          have R2D1_W52 := Lib.hid (R2D1_W51.out.keep hbW52)
          have ZAgW45_W52 := Lib.hid (ZAgW45_W51.out.keep hbW52)
          have ZAgW51_W52 := Lib.hid (ZAgW51_W51.out.keep hbW52)
          clear hbW52 HBW51 HLW51 R0D1_W51 R1D1_W51 R2D1_W51 ZAgW45_W51 ZAgW51_W51
          simp only [Act.put, List.setIfInBounds_toArray, List.set_cons_zero, List.set_cons_succ]
          refine storeW_all (i := 8) (oi := { dst := none, op := Op.store 23 (Operand.tmp 7) (Operand.tmp 14), type := 0, pos := "law.go:46", after := #[{ on := 6, ground := Ground.data }, { on := 2, ground := Ground.data }, { on := 5, ground := Ground.chain }, { on := 0, ground := Ground.phase }, { on := 1, ground := Ground.phase }, { on := 2, ground := Ground.phase }, { on := 3, ground := Ground.textOnly Departure.lateStores }, { on := 4, ground := Ground.textOnly Departure.lateStores }, { on := 5, ground := Ground.textOnly Departure.lateStoresUnsure }, { on := 6, ground := Ground.phase }, { on := 7, ground := Ground.phase }], guard := none }) rfl (by kernel_rfl) (by rfl) 23 (.tmp 7) (.tmp 14) rfl (gW51) rfl (bcs (enc s)).toArray rfl 23 _ ZAgW51_W52.out (by rw [List.size_toArray, bcs_enc_len]; exact size23) (by rw [List.size_toArray, bcs_enc_len]; rfl) (bcs_one _) rfl ?_
          intro W53 hhW53 hgW53 hzW53
          simp only [Act.put, List.setIfInBounds_toArray, List.set_cons_zero, List.set_cons_succ]
          have R0D1_W53 := Lib.hid (R0D1_W52.out.grown hgW53 (by have := HGgW51.out; have := HLTwheapsize.out; simp; omega))
          have R1D1_W53 := Lib.hid (R1D1_W52.out.grown hgW53 (by have := HGgW51.out; have := HLTwheapsizep1.out; simp; omega))
          have R2D1_W53 := Lib.hid (R2D1_W52.out.grown hgW53 (by have := HGgW51.out; have := HLTwheapsizep2.out; simp; omega))
          have ZAgW45_W53 := Lib.hid (ZAgW45_W52.out.grown hgW53 (by have := HXgW45gW51.out; simp; omega))
          have SgW51_W53 : Hid (NAt W53 (gW51) s) := Lib.hid ⟨23, hhW53⟩
          have HBW53 : Hid (Below w.heap.size w W53) := Lib.hid (HBW52.out.grown hgW53 HBW52.out.size (fun r hr => by injection hr with hr; have := HGgW51.out; have := HB_11.out.size; omega))
          have HLW53 : Hid (x11.heap.size ≤ W53.heap.size) := Lib.hid (Nat.le_trans HLW52.out hgW53.size)
          clear hhW53 hgW53 hzW53 HBW52 HLW52 R0D1_W52 R1D1_W52 R2D1_W52 ZAgW45_W52 ZAgW51_W52
          refine storeW_all (i := 9) (oi := { dst := none, op := Op.store 23 (Operand.tmp 8) (Operand.tmp 17), type := 0, pos := "law.go:46", after := #[{ on := 7, ground := Ground.data }, { on := 5, ground := Ground.data }, { on := 8, ground := Ground.chain }, { on := 0, ground := Ground.phase }, { on := 1, ground := Ground.phase }, { on := 2, ground := Ground.phase }, { on := 3, ground := Ground.phase }, { on := 4, ground := Ground.phase }, { on := 5, ground := Ground.phase }, { on := 6, ground := Ground.phase }, { on := 7, ground := Ground.phase }, { on := 8, ground := Ground.phase }], guard := none }) rfl (by kernel_rfl) (by rfl) 23 (.tmp 8) (.tmp 17) rfl (gW45) rfl (bcs (enc p)).toArray rfl 23 _ ZAgW45_W53.out (by rw [List.size_toArray, bcs_enc_len]; exact size23) (by rw [List.size_toArray, bcs_enc_len]; rfl) (bcs_one _) rfl ?_
          intro W54 hhW54 hgW54 hzW54
          simp only [Act.put, List.setIfInBounds_toArray, List.set_cons_zero, List.set_cons_succ]
          have R0D1_W54 := Lib.hid (R0D1_W53.out.grown hgW54 (by have := HGgW45.out; have := HLTwheapsize.out; simp; omega))
          have R1D1_W54 := Lib.hid (R1D1_W53.out.grown hgW54 (by have := HGgW45.out; have := HLTwheapsizep1.out; simp; omega))
          have R2D1_W54 := Lib.hid (R2D1_W53.out.grown hgW54 (by have := HGgW45.out; have := HLTwheapsizep2.out; simp; omega))
          have SgW51_W54 := Lib.hid (SgW51_W53.out.grown hgW54 (by have := HXgW45gW51.out; simp; omega))
          have SgW45_W54 : Hid (NAt W54 (gW45) p) := Lib.hid ⟨23, hhW54⟩
          have HBW54 : Hid (Below w.heap.size w W54) := Lib.hid (HBW53.out.grown hgW54 HBW53.out.size (fun r hr => by injection hr with hr; have := HGgW45.out; have := HB_11.out.size; omega))
          have HLW54 : Hid (x11.heap.size ≤ W54.heap.size) := Lib.hid (Nat.le_trans HLW53.out hgW54.size)
          clear hhW54 hgW54 hzW54 HBW53 HLW53 R0D1_W53 R1D1_W53 R2D1_W53 SgW51_W53 ZAgW45_W53
          refine doneW (by kernel_rfl) ⟨rfl, ?_⟩ _
          exact ⟨gW51, gW45, R0D1_W54.out, R1D1_W54.out, R2D1_W54.out, SgW51_W54.out, SgW45_W54.out, HBW54.out, rfl⟩
      · refine wpOp_value (i := 6) (oi := { dst := some 7, op := Op.alloc 23, type := 0, pos := "law.go:46", after := #[], guard := none }) rfl (by rfl) (exec_alloc 23 rfl (.agg (zbs 32)) zero23 W45) ⟨fun _ => (below_alloc W45 _).mono HLW45.out, ?_⟩
        obtain ⟨W55, hW55, hbW55, hzW55⟩ := alloc_zero W45
        rw [← hW55]
        obtain ⟨gW55, hgW55⟩ : ∃ g, g = W45.heap.size := ⟨_, rfl⟩
        rw [← hgW55] at hzW55 ⊢
        have HGgW55 : Hid (x11.heap.size ≤ gW55) := Lib.hid (by rw [hgW55]; exact HLW45.out)
        have HXgW45gW55 : Hid (gW45 ≠ gW55) := Lib.hid (by have := ZAgW45_W45.out.lt; omega)
        have HBW55 : Hid (Below w.heap.size w W55) := Lib.hid (HBW45.out.trans (hbW55.mono HBW45.out.size))
        have HLW55 : Hid (x11.heap.size ≤ W55.heap.size) := Lib.hid (Nat.le_trans HLW45.out hbW55.size)
        have R0D1_W55 := Lib.hid (R0D1_W45.out.keep hbW55)
        have R1D1_W55 := Lib.hid (R1D1_W45.out.keep hbW55)
        have R2D1_W55 := Lib.hid (R2D1_W45.out.keep hbW55)
        have ZAgW45_W55 := Lib.hid (ZAgW45_W45.out.keep hbW55)
        have ZAgW55_W55 := Lib.hid hzW55
        clear hbW55 HBW45 HLW45 R0D1_W45 R1D1_W45 R2D1_W45 ZAgW45_W45 hzW55 hgW55 hW55
        simp only [Act.put, List.setIfInBounds_toArray, List.set_cons_zero, List.set_cons_succ]
        refine callW (i := 2) (oi := { dst := some 14, op := Op.call { callee := Callee.value (Operand.func 23), args := #[Operand.tmp 12, Operand.tmp 13], argTypes := #[23, 23] }, type := 23, pos := "law.go:46", after := #[{ on := 0, ground := Ground.data }, { on := 1, ground := Ground.data }], guard := none }) rfl (by kernel_rfl) (by rfl) (exec_callL 23 [.tmp 12, .tmp 13] #[23, 23] rfl [vN A, vN B] rfl (CF23 _)) ((C0.out W55).mono ?_)
        rintro eW56 W56 ⟨rfl, hbW56⟩
        refine ⟨_, rfl, fun _ => hbW56.mono HLW55.out, ?_⟩
        have HBW56 : Hid (Below w.heap.size w W56) := Lib.hid (HBW55.out.trans (hbW56.mono HBW55.out.size))
        have HLW56 : Hid (x11.heap.size ≤ W56.heap.size) := Lib.hid (Nat.le_trans HLW55.out hbW56.size)
        have R0D1_W56 := Lib.hid (R0D1_W55.out.keep hbW56)
        have R1D1_W56 := Lib.hid (R1D1_W55.out.keep hbW56)
        have R2D1_W56 := Lib.hid (R2D1_W55.out.keep hbW56)
        have ZAgW45_W56 := Lib.hid (ZAgW45_W55.out.keep hbW56)
        have ZAgW55_W56 := Lib.hid (ZAgW55_W55.out.keep hbW56)
        clear hbW56 HBW55 HLW55 R0D1_W55 R1D1_W55 R2D1_W55 ZAgW45_W55 ZAgW55_W55
        simp only [Act.put, List.setIfInBounds_toArray, List.set_cons_zero, List.set_cons_succ]
        refine callW (i := 5) (oi := { dst := some 17, op := Op.call { callee := Callee.value (Operand.func 28), args := #[Operand.tmp 15, Operand.tmp 16], argTypes := #[23, 23] }, type := 23, pos := "law.go:46", after := #[{ on := 3, ground := Ground.data }, { on := 4, ground := Ground.data }, { on := 2, ground := Ground.chain }], guard := none }) rfl (by kernel_rfl) (by rfl) (exec_callL 28 [.tmp 15, .tmp 16] #[23, 23] rfl [vN A, vN B] rfl (CF28 _)) ((C1.out W56).mono ?_)
        rintro eW57 W57 ⟨rfl, hbW57⟩
        refine ⟨_, rfl, fun _ => hbW57.mono HLW56.out, ?_⟩
        have HBW57 : Hid (Below w.heap.size w W57) := Lib.hid (HBW56.out.trans (hbW57.mono HBW56.out.size))
        have HLW57 : Hid (x11.heap.size ≤ W57.heap.size) := Lib.hid (Nat.le_trans HLW56.out hbW57.size)
        have R0D1_W57 := Lib.hid (R0D1_W56.out.keep hbW57)
        have R1D1_W57 := Lib.hid (R1D1_W56.out.keep hbW57)
        have R2D1_W57 := Lib.hid (R2D1_W56.out.keep hbW57)
        have ZAgW45_W57 := Lib.hid (ZAgW45_W56.out.keep hbW57)
        have ZAgW55_W57 := Lib.hid (ZAgW55_W56.out.keep hbW57)
        clear hbW57 HBW56 HLW56 R0D1_W56 R1D1_W56 R2D1_W56 ZAgW45_W56 ZAgW55_W56
        simp only [Act.put, List.setIfInBounds_toArray, List.set_cons_zero, List.set_cons_succ]
        refine storeW_all (i := 8) (oi := { dst := none, op := Op.store 23 (Operand.tmp 7) (Operand.tmp 14), type := 0, pos := "law.go:46", after := #[{ on := 6, ground := Ground.data }, { on := 2, ground := Ground.data }, { on := 5, ground := Ground.chain }, { on := 0, ground := Ground.phase }, { on := 1, ground := Ground.phase }, { on := 2, ground := Ground.phase }, { on := 3, ground := Ground.textOnly Departure.lateStores }, { on := 4, ground := Ground.textOnly Departure.lateStores }, { on := 5, ground := Ground.textOnly Departure.lateStoresUnsure }, { on := 6, ground := Ground.phase }, { on := 7, ground := Ground.phase }], guard := none }) rfl (by kernel_rfl) (by rfl) 23 (.tmp 7) (.tmp 14) rfl (gW55) rfl (bcs (enc s)).toArray rfl 23 _ ZAgW55_W57.out (by rw [List.size_toArray, bcs_enc_len]; exact size23) (by rw [List.size_toArray, bcs_enc_len]; rfl) (bcs_one _) rfl ?_
        intro W58 hhW58 hgW58 hzW58
        simp only [Act.put, List.setIfInBounds_toArray, List.set_cons_zero, List.set_cons_succ]
        have R0D1_W58 := Lib.hid (R0D1_W57.out.grown hgW58 (by have := HGgW55.out; have := HLTwheapsize.out; simp; omega))
        have R1D1_W58 := Lib.hid (R1D1_W57.out.grown hgW58 (by have := HGgW55.out; have := HLTwheapsizep1.out; simp; omega))
        have R2D1_W58 := Lib.hid (R2D1_W57.out.grown hgW58 (by have := HGgW55.out; have := HLTwheapsizep2.out; simp; omega))
        have ZAgW45_W58 := Lib.hid (ZAgW45_W57.out.grown hgW58 (by have := HXgW45gW55.out; simp; omega))
        have SgW55_W58 : Hid (NAt W58 (gW55) s) := Lib.hid ⟨23, hhW58⟩
        have HBW58 : Hid (Below w.heap.size w W58) := Lib.hid (HBW57.out.grown hgW58 HBW57.out.size (fun r hr => by injection hr with hr; have := HGgW55.out; have := HB_11.out.size; omega))
        have HLW58 : Hid (x11.heap.size ≤ W58.heap.size) := Lib.hid (Nat.le_trans HLW57.out hgW58.size)
        clear hhW58 hgW58 hzW58 HBW57 HLW57 R0D1_W57 R1D1_W57 R2D1_W57 ZAgW45_W57 ZAgW55_W57
        refine storeW_all (i := 9) (oi := { dst := none, op := Op.store 23 (Operand.tmp 8) (Operand.tmp 17), type := 0, pos := "law.go:46", after := #[{ on := 7, ground := Ground.data }, { on := 5, ground := Ground.data }, { on := 8, ground := Ground.chain }, { on := 0, ground := Ground.phase }, { on := 1, ground := Ground.phase }, { on := 2, ground := Ground.phase }, { on := 3, ground := Ground.phase }, { on := 4, ground := Ground.phase }, { on := 5, ground := Ground.phase }, { on := 6, ground := Ground.phase }, { on := 7, ground := Ground.phase }, { on := 8, ground := Ground.phase }], guard := none }) rfl (by kernel_rfl) (by rfl) 23 (.tmp 8) (.tmp 17) rfl (gW45) rfl (bcs (enc p)).toArray rfl 23 _ ZAgW45_W58.out (by rw [List.size_toArray, bcs_enc_len]; exact size23) (by rw [List.size_toArray, bcs_enc_len]; rfl) (bcs_one _) rfl ?_
        intro W59 hhW59 hgW59 hzW59
        simp only [Act.put, List.setIfInBounds_toArray, List.set_cons_zero, List.set_cons_succ]
        have R0D1_W59 := Lib.hid (R0D1_W58.out.grown hgW59 (by have := HGgW45.out; have := HLTwheapsize.out; simp; omega))
        have R1D1_W59 := Lib.hid (R1D1_W58.out.grown hgW59 (by have := HGgW45.out; have := HLTwheapsizep1.out; simp; omega))
        have R2D1_W59 := Lib.hid (R2D1_W58.out.grown hgW59 (by have := HGgW45.out; have := HLTwheapsizep2.out; simp; omega))
        have SgW55_W59 := Lib.hid (SgW55_W58.out.grown hgW59 (by have := HXgW45gW55.out; simp; omega))
        have SgW45_W59 : Hid (NAt W59 (gW45) p) := Lib.hid ⟨23, hhW59⟩
        have HBW59 : Hid (Below w.heap.size w W59) := Lib.hid (HBW58.out.grown hgW59 HBW58.out.size (fun r hr => by injection hr with hr; have := HGgW45.out; have := HB_11.out.size; omega))
        have HLW59 : Hid (x11.heap.size ≤ W59.heap.size) := Lib.hid (Nat.le_trans HLW58.out hgW59.size)
        clear hhW59 hgW59 hzW59 HBW58 HLW58 R0D1_W58 R1D1_W58 R2D1_W58 SgW55_W58 ZAgW45_W58
        refine doneW (by kernel_rfl) ⟨rfl, ?_⟩ _
        exact ⟨gW55, gW45, R0D1_W59.out, R1D1_W59.out, R2D1_W59.out, SgW55_W59.out, SgW45_W59.out, HBW59.out, rfl⟩
  rintro a' y0 ⟨g7, g8, h1, h2, h3, h4, h5, h6, rfl⟩
  have RA_y0 := Lib.hid h1
  have RB_y0 := Lib.hid h2
  have RC_y0 := Lib.hid h3
  have S7_y0 := Lib.hid h4
  have S8_y0 := Lib.hid h5
  have HB_y0 := Lib.hid h6
  clear h1 h2 h3 h4 h5 h6 RA_11 RB_11 RC_11 HB_11 HLTwheapsize HLTwheapsizep1 HLTwheapsizep2
  go_wp2_with fail
  refine region_qb (by kernel_rfl) (by kernel_rfl) ?_
  refine qb_load rfl (.tmp 7) rfl (g7) s rfl S7_y0.out ?_
  simp only [Act.put, List.setIfInBounds_toArray, List.set_cons_zero, List.set_cons_succ]
  refine qb_load rfl (.tmp 4) rfl (w.heap.size + 1) B rfl RB_y0.out ?_
  simp only [Act.put, List.setIfInBounds_toArray, List.set_cons_zero, List.set_cons_succ]
  refine qb_load rfl (.tmp 3) rfl (w.heap.size) A rfl RA_y0.out ?_
  simp only [Act.put, List.setIfInBounds_toArray, List.set_cons_zero, List.set_cons_succ]
  refine qb_call rfl 23 [.tmp 19, .tmp 20] #[23, 23] rfl [vN B, vN A] rfl (CF23 _) (vN s) C2.out ?_
  simp only [Act.put, List.setIfInBounds_toArray, List.set_cons_zero, List.set_cons_succ]
  refine qb_neq rfl (.tmp 18) (.tmp 21) rfl s s rfl rfl true false (eqN_same _) rfl ?_
  simp only [Act.put, List.setIfInBounds_toArray, List.set_cons_zero, List.set_cons_succ]
  refine qb_move rfl (.tmp 22) rfl (.bool false) rfl ?_
  simp only [Act.put, List.setIfInBounds_toArray, List.set_cons_zero, List.set_cons_succ]
  refine qb_load rfl (.tmp 8) rfl (g8) p rfl S8_y0.out ?_
  simp only [Act.put, List.setIfInBounds_toArray, List.set_cons_zero, List.set_cons_succ]
  refine qb_load rfl (.tmp 4) rfl (w.heap.size + 1) B rfl RB_y0.out ?_
  simp only [Act.put, List.setIfInBounds_toArray, List.set_cons_zero, List.set_cons_succ]
  refine qb_load rfl (.tmp 3) rfl (w.heap.size) A rfl RA_y0.out ?_
  simp only [Act.put, List.setIfInBounds_toArray, List.set_cons_zero, List.set_cons_succ]
  refine qb_call rfl 28 [.tmp 25, .tmp 26] #[23, 23] rfl [vN B, vN A] rfl (CF28 _) (vN p) C3.out ?_
  simp only [Act.put, List.setIfInBounds_toArray, List.set_cons_zero, List.set_cons_succ]
  refine qb_neq rfl (.tmp 24) (.tmp 27) rfl p p rfl rfl true false (eqN_same _) rfl ?_
  simp only [Act.put, List.setIfInBounds_toArray, List.set_cons_zero, List.set_cons_succ]
  refine qb_pick rfl (.tmp 23) (.const (.bool true)) (.tmp 28) rfl false rfl (.bool false) rfl ?_
  simp only [Act.put, List.setIfInBounds_toArray, List.set_cons_zero, List.set_cons_succ]
  refine qb_move rfl (.tmp 29) rfl (.bool false) rfl ?_
  simp only [Act.put, List.setIfInBounds_toArray, List.set_cons_zero, List.set_cons_succ]
  refine qb_load rfl (.tmp 7) rfl (g7) s rfl S7_y0.out ?_
  simp only [Act.put, List.setIfInBounds_toArray, List.set_cons_zero, List.set_cons_succ]
  refine qb_load rfl (.tmp 5) rfl (w.heap.size + 2) C rfl RC_y0.out ?_
  simp only [Act.put, List.setIfInBounds_toArray, List.set_cons_zero, List.set_cons_succ]
  refine qb_call rfl 23 [.tmp 31, .tmp 32] #[23, 23] rfl [vN s, vN C] rfl (CF23 _) (vN t1) C4.out ?_
  simp only [Act.put, List.setIfInBounds_toArray, List.set_cons_zero, List.set_cons_succ]
  refine qb_load rfl (.tmp 3) rfl (w.heap.size) A rfl RA_y0.out ?_
  simp only [Act.put, List.setIfInBounds_toArray, List.set_cons_zero, List.set_cons_succ]
  refine qb_load rfl (.tmp 4) rfl (w.heap.size + 1) B rfl RB_y0.out ?_
  simp only [Act.put, List.setIfInBounds_toArray, List.set_cons_zero, List.set_cons_succ]
  refine qb_load rfl (.tmp 5) rfl (w.heap.size + 2) C rfl RC_y0.out ?_
  simp only [Act.put, List.setIfInBounds_toArray, List.set_cons_zero, List.set_cons_succ]
  refine qb_call rfl 23 [.tmp 35, .tmp 36] #[23, 23] rfl [vN B, vN C] rfl (CF23 _) (vN u1) C5.out ?_
  simp only [Act.put, List.setIfInBounds_toArray, List.set_cons_zero, List.set_cons_succ]
  refine qb_call rfl 23 [.tmp 34, .tmp 37] #[23, 23] rfl [vN A, vN u1] rfl (CF23 _) (vN t1) C6.out ?_
  simp only [Act.put, List.setIfInBounds_toArray, List.set_cons_zero, List.set_cons_succ]
  refine qb_neq rfl (.tmp 33) (.tmp 38) rfl t1 t1 rfl rfl true false (eqN_same _) rfl ?_
  simp only [Act.put, List.setIfInBounds_toArray, List.set_cons_zero, List.set_cons_succ]
  refine qb_pick rfl (.tmp 30) (.const (.bool true)) (.tmp 39) rfl false rfl (.bool false) rfl ?_
  simp only [Act.put, List.setIfInBounds_toArray, List.set_cons_zero, List.set_cons_succ]
  refine qb_move rfl (.tmp 40) rfl (.bool false) rfl ?_
  simp only [Act.put, List.setIfInBounds_toArray, List.set_cons_zero, List.set_cons_succ]
  refine qb_load rfl (.tmp 8) rfl (g8) p rfl S8_y0.out ?_
  simp only [Act.put, List.setIfInBounds_toArray, List.set_cons_zero, List.set_cons_succ]
  refine qb_load rfl (.tmp 5) rfl (w.heap.size + 2) C rfl RC_y0.out ?_
  simp only [Act.put, List.setIfInBounds_toArray, List.set_cons_zero, List.set_cons_succ]
  refine qb_call rfl 28 [.tmp 42, .tmp 43] #[23, 23] rfl [vN p, vN C] rfl (CF28 _) (vN t2) C7.out ?_
  simp only [Act.put, List.setIfInBounds_toArray, List.set_cons_zero, List.set_cons_succ]
  refine qb_load rfl (.tmp 3) rfl (w.heap.size) A rfl RA_y0.out ?_
  simp only [Act.put, List.setIfInBounds_toArray, List.set_cons_zero, List.set_cons_succ]
  refine qb_load rfl (.tmp 4) rfl (w.heap.size + 1) B rfl RB_y0.out ?_
  simp only [Act.put, List.setIfInBounds_toArray, List.set_cons_zero, List.set_cons_succ]
  refine qb_load rfl (.tmp 5) rfl (w.heap.size + 2) C rfl RC_y0.out ?_
  simp only [Act.put, List.setIfInBounds_toArray, List.set_cons_zero, List.set_cons_succ]
  refine qb_call rfl 28 [.tmp 46, .tmp 47] #[23, 23] rfl [vN B, vN C] rfl (CF28 _) (vN u2) C8.out ?_
  simp only [Act.put, List.setIfInBounds_toArray, List.set_cons_zero, List.set_cons_succ]
  refine qb_call rfl 28 [.tmp 45, .tmp 48] #[23, 23] rfl [vN A, vN u2] rfl (CF28 _) (vN t2) C9.out ?_
  simp only [Act.put, List.setIfInBounds_toArray, List.set_cons_zero, List.set_cons_succ]
  refine qb_neq rfl (.tmp 44) (.tmp 49) rfl t2 t2 rfl rfl true false (eqN_same _) rfl ?_
  simp only [Act.put, List.setIfInBounds_toArray, List.set_cons_zero, List.set_cons_succ]
  refine qb_pick rfl (.tmp 41) (.const (.bool true)) (.tmp 50) rfl false rfl (.bool false) rfl ?_
  simp only [Act.put, List.setIfInBounds_toArray, List.set_cons_zero, List.set_cons_succ]
  refine qb_move rfl (.tmp 51) rfl (.bool false) rfl ?_
  simp only [Act.put, List.setIfInBounds_toArray, List.set_cons_zero, List.set_cons_succ]
  refine qb_load rfl (.tmp 7) rfl (g7) s rfl S7_y0.out ?_
  simp only [Act.put, List.setIfInBounds_toArray, List.set_cons_zero, List.set_cons_succ]
  refine qb_load rfl (.tmp 5) rfl (w.heap.size + 2) C rfl RC_y0.out ?_
  simp only [Act.put, List.setIfInBounds_toArray, List.set_cons_zero, List.set_cons_succ]
  refine qb_call rfl 28 [.tmp 53, .tmp 54] #[23, 23] rfl [vN s, vN C] rfl (CF28 _) (vN t3) C10.out ?_
  simp only [Act.put, List.setIfInBounds_toArray, List.set_cons_zero, List.set_cons_succ]
  refine qb_load rfl (.tmp 3) rfl (w.heap.size) A rfl RA_y0.out ?_
  simp only [Act.put, List.setIfInBounds_toArray, List.set_cons_zero, List.set_cons_succ]
  refine qb_load rfl (.tmp 5) rfl (w.heap.size + 2) C rfl RC_y0.out ?_
  simp only [Act.put, List.setIfInBounds_toArray, List.set_cons_zero, List.set_cons_succ]
  refine qb_call rfl 28 [.tmp 56, .tmp 57] #[23, 23] rfl [vN A, vN C] rfl (CF28 _) (vN u3) C11.out ?_
  simp only [Act.put, List.setIfInBounds_toArray, List.set_cons_zero, List.set_cons_succ]
  refine qb_load rfl (.tmp 4) rfl (w.heap.size + 1) B rfl RB_y0.out ?_
  simp only [Act.put, List.setIfInBounds_toArray, List.set_cons_zero, List.set_cons_succ]
  refine qb_load rfl (.tmp 5) rfl (w.heap.size + 2) C rfl RC_y0.out ?_
  simp only [Act.put, List.setIfInBounds_toArray, List.set_cons_zero, List.set_cons_succ]
  refine qb_call rfl 28 [.tmp 59, .tmp 60] #[23, 23] rfl [vN B, vN C] rfl (CF28 _) (vN u2) C8.out ?_
  simp only [Act.put, List.setIfInBounds_toArray, List.set_cons_zero, List.set_cons_succ]
  refine qb_call rfl 23 [.tmp 58, .tmp 61] #[23, 23] rfl [vN u3, vN u2] rfl (CF23 _) (vN t3) C12.out ?_
  simp only [Act.put, List.setIfInBounds_toArray, List.set_cons_zero, List.set_cons_succ]
  refine qb_neq rfl (.tmp 55) (.tmp 62) rfl t3 t3 rfl rfl true false (eqN_same _) rfl ?_
  simp only [Act.put, List.setIfInBounds_toArray, List.set_cons_zero, List.set_cons_succ]
  refine qb_pick rfl (.tmp 52) (.const (.bool true)) (.tmp 63) rfl false rfl (.bool false) rfl ?_
  simp only [Act.put, List.setIfInBounds_toArray, List.set_cons_zero, List.set_cons_succ]
  refine wpQuiet_nil ?_
  intro y1 hb
  have RA_y1 := Lib.hid (RA_y0.out.keep hb)
  have RB_y1 := Lib.hid (RB_y0.out.keep hb)
  have RC_y1 := Lib.hid (RC_y0.out.keep hb)
  have S7_y1 := Lib.hid (S7_y0.out.keep hb)
  have S8_y1 := Lib.hid (S8_y0.out.keep hb)
  have HB_y1 : Hid (Below w.heap.size w y1) := Lib.hid (HB_y0.out.trans (hb.mono HB_y0.out.size))
  clear hb HB_y0 RA_y0 RB_y0 RC_y0 S7_y0 S8_y0
  go_wp2_with fail
  refine region_qb (by kernel_rfl) (by kernel_rfl) ?_
  refine qb_load rfl (.tmp 7) rfl (g7) s rfl S7_y1.out ?_
  simp only [Act.put, List.setIfInBounds_toArray, List.set_cons_zero, List.set_cons_succ]
  refine qb_load rfl (.tmp 4) rfl (w.heap.size + 1) B rfl RB_y1.out ?_
  simp only [Act.put, List.setIfInBounds_toArray, List.set_cons_zero, List.set_cons_succ]
  refine qb_call rfl 25 [.tmp 65, .tmp 66] #[23, 23] rfl [vN s, vN B] rfl (CF25 _) (vN r) C13.out ?_
  simp only [Act.put, List.setIfInBounds_toArray, List.set_cons_zero, List.set_cons_succ]
  refine qb_load rfl (.tmp 3) rfl (w.heap.size) A rfl RA_y1.out ?_
  simp only [Act.put, List.setIfInBounds_toArray, List.set_cons_zero, List.set_cons_succ]
  refine qb_call rfl 11 [.tmp 68] #[23] rfl [vN A] rfl (CF11 _) (vN r) C14.out ?_
  simp only [Act.put, List.setIfInBounds_toArray, List.set_cons_zero, List.set_cons_succ]
  refine qb_neq rfl (.tmp 67) (.tmp 69) rfl r r rfl rfl true false (eqN_same _) rfl ?_
  simp only [Act.put, List.setIfInBounds_toArray, List.set_cons_zero, List.set_cons_succ]
  refine qb_move rfl (.tmp 70) rfl (.bool false) rfl ?_
  simp only [Act.put, List.setIfInBounds_toArray, List.set_cons_zero, List.set_cons_succ]
  refine qb_load rfl (.tmp 3) rfl (w.heap.size) A rfl RA_y1.out ?_
  simp only [Act.put, List.setIfInBounds_toArray, List.set_cons_zero, List.set_cons_succ]
  refine qb_load rfl (.tmp 4) rfl (w.heap.size + 1) B rfl RB_y1.out ?_
  simp only [Act.put, List.setIfInBounds_toArray, List.set_cons_zero, List.set_cons_succ]
  refine qb_call rfl 25 [.tmp 72, .tmp 73] #[23, 23] rfl [vN A, vN B] rfl (CF25 _) (vN d) C15.out ?_
  simp only [Act.put, List.setIfInBounds_toArray, List.set_cons_zero, List.set_cons_succ]
  refine qb_load rfl (.tmp 4) rfl (w.heap.size + 1) B rfl RB_y1.out ?_
  simp only [Act.put, List.setIfInBounds_toArray, List.set_cons_zero, List.set_cons_succ]
  refine qb_call rfl 23 [.tmp 74, .tmp 75] #[23, 23] rfl [vN d, vN B] rfl (CF23 _) (vN r) C16.out ?_
  simp only [Act.put, List.setIfInBounds_toArray, List.set_cons_zero, List.set_cons_succ]
  refine qb_load rfl (.tmp 3) rfl (w.heap.size) A rfl RA_y1.out ?_
  simp only [Act.put, List.setIfInBounds_toArray, List.set_cons_zero, List.set_cons_succ]
  refine qb_call rfl 11 [.tmp 77] #[23] rfl [vN A] rfl (CF11 _) (vN r) C14.out ?_
  simp only [Act.put, List.setIfInBounds_toArray, List.set_cons_zero, List.set_cons_succ]
  refine qb_neq rfl (.tmp 76) (.tmp 78) rfl r r rfl rfl true false (eqN_same _) rfl ?_
  simp only [Act.put, List.setIfInBounds_toArray, List.set_cons_zero, List.set_cons_succ]
  refine qb_pick rfl (.tmp 71) (.const (.bool true)) (.tmp 79) rfl false rfl (.bool false) rfl ?_
  simp only [Act.put, List.setIfInBounds_toArray, List.set_cons_zero, List.set_cons_succ]
  refine qb_move rfl (.tmp 80) rfl (.bool false) rfl ?_
  simp only [Act.put, List.setIfInBounds_toArray, List.set_cons_zero, List.set_cons_succ]
  refine qb_load rfl (.tmp 3) rfl (w.heap.size) A rfl RA_y1.out ?_
  simp only [Act.put, List.setIfInBounds_toArray, List.set_cons_zero, List.set_cons_succ]
  refine qb_call rfl 13 [.tmp 82] #[23] rfl [vN A] rfl (CF13 _) (vN n) C17.out ?_
  simp only [Act.put, List.setIfInBounds_toArray, List.set_cons_zero, List.set_cons_succ]
  refine qb_zero rfl rfl ?_
  simp only [Act.put, List.setIfInBounds_toArray, List.set_cons_zero, List.set_cons_succ]
  refine qb_load rfl (.tmp 3) rfl (w.heap.size) A rfl RA_y1.out ?_
  simp only [Act.put, List.setIfInBounds_toArray, List.set_cons_zero, List.set_cons_succ]
  refine qb_call rfl 25 [.tmp 84, .tmp 85] #[23, 23] rfl [vN 0, vN A] rfl (CF25 _) (vN n) C18.out ?_
  simp only [Act.put, List.setIfInBounds_toArray, List.set_cons_zero, List.set_cons_succ]
  refine qb_neq rfl (.tmp 83) (.tmp 86) rfl n n rfl rfl true false (eqN_same _) rfl ?_
  simp only [Act.put, List.setIfInBounds_toArray, List.set_cons_zero, List.set_cons_succ]
  refine qb_pick rfl (.tmp 81) (.const (.bool true)) (.tmp 87) rfl false rfl (.bool false) rfl ?_
  simp only [Act.put, List.setIfInBounds_toArray, List.set_cons_zero, List.set_cons_succ]
  refine qb_move rfl (.tmp 88) rfl (.bool false) rfl ?_
  simp only [Act.put, List.setIfInBounds_toArray, List.set_cons_zero, List.set_cons_succ]
  refine qb_load rfl (.tmp 3) rfl (w.heap.size) A rfl RA_y1.out ?_
  simp only [Act.put, List.setIfInBounds_toArray, List.set_cons_zero, List.set_cons_succ]
  refine qb_load rfl (.tmp 3) rfl (w.heap.size) A rfl RA_y1.out ?_
  simp only [Act.put, List.setIfInBounds_toArray, List.set_cons_zero, List.set_cons_succ]
  refine qb_call rfl 13 [.tmp 91] #[23] rfl [vN A] rfl (CF13 _) (vN n) C17.out ?_
  simp only [Act.put, List.setIfInBounds_toArray, List.set_cons_zero, List.set_cons_succ]
  refine qb_call rfl 23 [.tmp 90, .tmp 92] #[23, 23] rfl [vN A, vN n] rfl (CF23 _) (vN 0) C19.out ?_
  simp only [Act.put, List.setIfInBounds_toArray, List.set_cons_zero, List.set_cons_succ]
  refine qb_zero rfl rfl ?_
  simp only [Act.put, List.setIfInBounds_toArray, List.set_cons_zero, List.set_cons_succ]
  refine qb_neq rfl (.tmp 93) (.tmp 94) rfl 0 0 rfl rfl true false (eqN_same _) rfl ?_
  simp only [Act.put, List.setIfInBounds_toArray, List.set_cons_zero, List.set_cons_succ]
  refine qb_pick rfl (.tmp 89) (.const (.bool true)) (.tmp 95) rfl false rfl (.bool false) rfl ?_
  simp only [Act.put, List.setIfInBounds_toArray, List.set_cons_zero, List.set_cons_succ]
  refine qb_move rfl (.tmp 96) rfl (.bool false) rfl ?_
  simp only [Act.put, List.setIfInBounds_toArray, List.set_cons_zero, List.set_cons_succ]
  refine qb_load rfl (.tmp 3) rfl (w.heap.size) A rfl RA_y1.out ?_
  simp only [Act.put, List.setIfInBounds_toArray, List.set_cons_zero, List.set_cons_succ]
  refine qb_call rfl 13 [.tmp 98] #[23] rfl [vN A] rfl (CF13 _) (vN n) C17.out ?_
  simp only [Act.put, List.setIfInBounds_toArray, List.set_cons_zero, List.set_cons_succ]
  refine qb_load rfl (.tmp 4) rfl (w.heap.size + 1) B rfl RB_y1.out ?_
  simp only [Act.put, List.setIfInBounds_toArray, List.set_cons_zero, List.set_cons_succ]
  refine qb_call rfl 28 [.tmp 99, .tmp 100] #[23, 23] rfl [vN n, vN B] rfl (CF28 _) (vN m) C20.out ?_
  simp only [Act.put, List.setIfInBounds_toArray, List.set_cons_zero, List.set_cons_succ]
  refine qb_load rfl (.tmp 8) rfl (g8) p rfl S8_y1.out ?_
  simp only [Act.put, List.setIfInBounds_toArray, List.set_cons_zero, List.set_cons_succ]
  refine qb_call rfl 13 [.tmp 102] #[23] rfl [vN p] rfl (CF13 _) (vN m) C21.out ?_
  simp only [Act.put, List.setIfInBounds_toArray, List.set_cons_zero, List.set_cons_succ]
  refine qb_neq rfl (.tmp 101) (.tmp 103) rfl m m rfl rfl true false (eqN_same _) rfl ?_
  simp only [Act.put, List.setIfInBounds_toArray, List.set_cons_zero, List.set_cons_succ]
  refine qb_pick rfl (.tmp 97) (.const (.bool true)) (.tmp 104) rfl false rfl (.bool false) rfl ?_
  simp only [Act.put, List.setIfInBounds_toArray, List.set_cons_zero, List.set_cons_succ]
  refine wpQuiet_nil ?_
  intro y2 hb
  have RA_y2 := Lib.hid (RA_y1.out.keep hb)
  have RB_y2 := Lib.hid (RB_y1.out.keep hb)
  have RC_y2 := Lib.hid (RC_y1.out.keep hb)
  have S7_y2 := Lib.hid (S7_y1.out.keep hb)
  have S8_y2 := Lib.hid (S8_y1.out.keep hb)
  have HB_y2 : Hid (Below w.heap.size w y2) := Lib.hid (HB_y1.out.trans (hb.mono HB_y1.out.size))
  clear hb HB_y1 RA_y1 RB_y1 RC_y1 S7_y1 S8_y1
  go_wp2_with (first | ((with_reducible show wpList _ _ _ (⟨_, .load 23 (.tmp 3), _, _, _, _⟩ :: _) _ _); go_must (refine wpList_exec rfl (vN A) (exec_load23 (.tmp 3) rfl (w.heap.size) A rfl RA_y2.out) ?_)) | fail)
  refine (C14.out _).mono ?_
  rintro ex x12 ⟨rfl, hb⟩
  have RA_12 := Lib.hid (RA_y2.out.keep hb)
  have RB_12 := Lib.hid (RB_y2.out.keep hb)
  have RC_12 := Lib.hid (RC_y2.out.keep hb)
  have S7_12 := Lib.hid (S7_y2.out.keep hb)
  have S8_12 := Lib.hid (S8_y2.out.keep hb)
  have HB_12 := Lib.hid (HB_y2.out.trans (hb.mono HB_y2.out.size))
  clear hb RA_y2 RB_y2 RC_y2 S7_y2 S8_y2 HB_y2
  go_wp2_with (first | ((with_reducible show wpList _ _ _ (⟨some 9, .alloc 23, _, _, _, _⟩ :: _) _ _); go_must (refine wpList_alloc_row rfl 23 rfl (.agg (zbs 32)) zero23 ?_; intro u13 h1 z1 g1; have H13 := Lib.hid h1; have Z13 := Lib.hid z1; have G13 := Lib.hid g1; clear h1 z1 g1)) | ((with_reducible show wpList _ _ _ (⟨none, .store 23 (.tmp 9) (.tmp 107), _, _, _, _⟩ :: _) _ _); go_must (refine wpList_store_all rfl 23 (.tmp 9) (.tmp 107) rfl (x12.heap.size) rfl (bcs (enc r)).toArray rfl 23 _ H13.out (by rw [List.size_toArray, bcs_enc_len]; exact size23) (by rw [List.size_toArray, bcs_enc_len]; rfl) (bcs_one _) ?_; intro v13 hh hg hz; have HH13 := Lib.hid hh; have HG13 := Lib.hid hg; clear hh hg hz)) | fail)
  have RA_13 := Lib.hid ((RA_12.out.grown G13.out (by simp)).grown HG13.out (by have := RA_12.out.lt; simp; omega))
  have RB_13 := Lib.hid ((RB_12.out.grown G13.out (by simp)).grown HG13.out (by have := RB_12.out.lt; simp; omega))
  have RC_13 := Lib.hid ((RC_12.out.grown G13.out (by simp)).grown HG13.out (by have := RC_12.out.lt; simp; omega))
  have S7_13 := Lib.hid ((S7_12.out.grown G13.out (by simp)).grown HG13.out (by have := S7_12.out.lt; simp; omega))
  have S8_13 := Lib.hid ((S8_12.out.grown G13.out (by simp)).grown HG13.out (by have := S8_12.out.lt; simp; omega))
  have T9_13 : Hid (NAt v13 x12.heap.size r) := Lib.hid ⟨23, HH13.out⟩
  have HB_13 : Hid (Below w.heap.size w v13) := Lib.hid ((HB_12.out.grown G13.out HB_12.out.size (by simp)).grown HG13.out (by have := HB_12.out.size; have := Z13.out; omega) (fun r hr => by injection hr with hr; have := HB_12.out.size; omega))
  clear H13 Z13 G13 HH13 HG13 HB_12 RA_12 RB_12 RC_12 S7_12 S8_12
  generalize x12.heap.size = g9 at *
  refine region_qb (by kernel_rfl) (by kernel_rfl) ?_
  refine qb_load rfl (.tmp 7) rfl (g7) s rfl S7_13.out ?_
  simp only [Act.put, List.setIfInBounds_toArray, List.set_cons_zero, List.set_cons_succ]
  refine qb_call rfl 12 [.tmp 108] #[23] rfl [vN s] rfl (CF12 _) (.bool true) C29.out ?_
  simp only [Act.put, List.setIfInBounds_toArray, List.set_cons_zero, List.set_cons_succ]
  refine qb_move rfl (.tmp 109) rfl (.bool true) rfl ?_
  simp only [Act.put, List.setIfInBounds_toArray, List.set_cons_zero, List.set_cons_succ]
  refine qb_load rfl (.tmp 8) rfl (g8) p rfl S8_13.out ?_
  simp only [Act.put, List.setIfInBounds_toArray, List.set_cons_zero, List.set_cons_succ]
  refine qb_call rfl 12 [.tmp 111] #[23] rfl [vN p] rfl (CF12 _) (.bool true) C30.out ?_
  simp only [Act.put, List.setIfInBounds_toArray, List.set_cons_zero, List.set_cons_succ]
  refine qb_pick rfl (.tmp 110) (.tmp 112) (.const (.bool false)) rfl true rfl (.bool true) rfl ?_
  simp only [Act.put, List.setIfInBounds_toArray, List.set_cons_zero, List.set_cons_succ]
  refine qb_move rfl (.tmp 113) rfl (.bool true) rfl ?_
  simp only [Act.put, List.setIfInBounds_toArray, List.set_cons_zero, List.set_cons_succ]
  refine qb_load rfl (.tmp 9) rfl (g9) r rfl T9_13.out ?_
  simp only [Act.put, List.setIfInBounds_toArray, List.set_cons_zero, List.set_cons_succ]
  refine qb_call rfl 12 [.tmp 115] #[23] rfl [vN r] rfl (CF12 _) (.bool true) C31.out ?_
  simp only [Act.put, List.setIfInBounds_toArray, List.set_cons_zero, List.set_cons_succ]
  refine qb_pick rfl (.tmp 114) (.tmp 116) (.const (.bool false)) rfl true rfl (.bool true) rfl ?_
  simp only [Act.put, List.setIfInBounds_toArray, List.set_cons_zero, List.set_cons_succ]
  refine qb_move rfl (.tmp 117) rfl (.bool true) rfl ?_
  simp only [Act.put, List.setIfInBounds_toArray, List.set_cons_zero, List.set_cons_succ]
  refine qb_load rfl (.tmp 9) rfl (g9) r rfl T9_13.out ?_
  simp only [Act.put, List.setIfInBounds_toArray, List.set_cons_zero, List.set_cons_succ]
  refine qb_call rfl 11 [.tmp 119] #[23] rfl [vN r] rfl (CF11 _) (vN r) C22.out ?_
  simp only [Act.put, List.setIfInBounds_toArray, List.set_cons_zero, List.set_cons_succ]
  refine qb_load rfl (.tmp 9) rfl (g9) r rfl T9_13.out ?_
  simp only [Act.put, List.setIfInBounds_toArray, List.set_cons_zero, List.set_cons_succ]
  refine qb_eq rfl (.tmp 120) (.tmp 121) rfl r r rfl rfl true (eqN_same _) ?_
  simp only [Act.put, List.setIfInBounds_toArray, List.set_cons_zero, List.set_cons_succ]
  refine qb_pick rfl (.tmp 118) (.tmp 122) (.const (.bool false)) rfl true rfl (.bool true) rfl ?_
  simp only [Act.put, List.setIfInBounds_toArray, List.set_cons_zero, List.set_cons_succ]
  refine qb_move rfl (.tmp 123) rfl (.bool true) rfl ?_
  simp only [Act.put, List.setIfInBounds_toArray, List.set_cons_zero, List.set_cons_succ]
  refine qb_load rfl (.tmp 9) rfl (g9) r rfl T9_13.out ?_
  simp only [Act.put, List.setIfInBounds_toArray, List.set_cons_zero, List.set_cons_succ]
  refine qb_load rfl (.tmp 4) rfl (w.heap.size + 1) B rfl RB_13.out ?_
  simp only [Act.put, List.setIfInBounds_toArray, List.set_cons_zero, List.set_cons_succ]
  refine qb_call rfl 11 [.tmp 126] #[23] rfl [vN B] rfl (CF11 _) (vN q) C23.out ?_
  simp only [Act.put, List.setIfInBounds_toArray, List.set_cons_zero, List.set_cons_succ]
  refine qb_call rfl 23 [.tmp 125, .tmp 127] #[23, 23] rfl [vN r, vN q] rfl (CF23 _) (vN s) C24.out ?_
  simp only [Act.put, List.setIfInBounds_toArray, List.set_cons_zero, List.set_cons_succ]
  refine qb_load rfl (.tmp 7) rfl (g7) s rfl S7_13.out ?_
  simp only [Act.put, List.setIfInBounds_toArray, List.set_cons_zero, List.set_cons_succ]
  refine qb_eq rfl (.tmp 128) (.tmp 129) rfl s s rfl rfl true (eqN_same _) ?_
  simp only [Act.put, List.setIfInBounds_toArray, List.set_cons_zero, List.set_cons_succ]
  refine qb_pick rfl (.tmp 124) (.tmp 130) (.const (.bool false)) rfl true rfl (.bool true) rfl ?_
  simp only [Act.put, List.setIfInBounds_toArray, List.set_cons_zero, List.set_cons_succ]
  refine qb_move rfl (.tmp 131) rfl (.bool true) rfl ?_
  simp only [Act.put, List.setIfInBounds_toArray, List.set_cons_zero, List.set_cons_succ]
  refine qb_load rfl (.tmp 9) rfl (g9) r rfl T9_13.out ?_
  simp only [Act.put, List.setIfInBounds_toArray, List.set_cons_zero, List.set_cons_succ]
  refine qb_load rfl (.tmp 4) rfl (w.heap.size + 1) B rfl RB_13.out ?_
  simp only [Act.put, List.setIfInBounds_toArray, List.set_cons_zero, List.set_cons_succ]
  refine qb_call rfl 11 [.tmp 134] #[23] rfl [vN B] rfl (CF11 _) (vN q) C23.out ?_
  simp only [Act.put, List.setIfInBounds_toArray, List.set_cons_zero, List.set_cons_succ]
  refine qb_call rfl 28 [.tmp 133, .tmp 135] #[23, 23] rfl [vN r, vN q] rfl (CF28 _) (vN p) C25.out ?_
  simp only [Act.put, List.setIfInBounds_toArray, List.set_cons_zero, List.set_cons_succ]
  refine qb_load rfl (.tmp 8) rfl (g8) p rfl S8_13.out ?_
  simp only [Act.put, List.setIfInBounds_toArray, List.set_cons_zero, List.set_cons_succ]
  refine qb_eq rfl (.tmp 136) (.tmp 137) rfl p p rfl rfl true (eqN_same _) ?_
  simp only [Act.put, List.setIfInBounds_toArray, List.set_cons_zero, List.set_cons_succ]
  refine qb_pick rfl (.tmp 132) (.tmp 138) (.const (.bool false)) rfl true rfl (.bool true) rfl ?_
  simp only [Act.put, List.setIfInBounds_toArray, List.set_cons_zero, List.set_cons_succ]
  refine qb_move rfl (.tmp 139) rfl (.bool true) rfl ?_
  simp only [Act.put, List.setIfInBounds_toArray, List.set_cons_zero, List.set_cons_succ]
  refine qb_load rfl (.tmp 3) rfl (w.heap.size) A rfl RA_13.out ?_
  simp only [Act.put, List.setIfInBounds_toArray, List.set_cons_zero, List.set_cons_succ]
  refine qb_call rfl 14 [.const (.int .u64 1)] #[30] rfl [.int .u64 1] rfl (CF14 _) (vN 1) C33.out ?_
  simp only [Act.put, List.setIfInBounds_toArray, List.set_cons_zero, List.set_cons_succ]
  refine qb_call rfl 28 [.tmp 141, .tmp 142] #[23, 23] rfl [vN A, vN 1] rfl (CF28 _) (vN r) C26.out ?_
  simp only [Act.put, List.setIfInBounds_toArray, List.set_cons_zero, List.set_cons_succ]
  refine qb_load rfl (.tmp 9) rfl (g9) r rfl T9_13.out ?_
  simp only [Act.put, List.setIfInBounds_toArray, List.set_cons_zero, List.set_cons_succ]
  refine qb_eq rfl (.tmp 143) (.tmp 144) rfl r r rfl rfl true (eqN_same _) ?_
  simp only [Act.put, List.setIfInBounds_toArray, List.set_cons_zero, List.set_cons_succ]
  refine qb_pick rfl (.tmp 140) (.tmp 145) (.const (.bool false)) rfl true rfl (.bool true) rfl ?_
  simp only [Act.put, List.setIfInBounds_toArray, List.set_cons_zero, List.set_cons_succ]
  refine qb_move rfl (.tmp 146) rfl (.bool true) rfl ?_
  simp only [Act.put, List.setIfInBounds_toArray, List.set_cons_zero, List.set_cons_succ]
  refine qb_load rfl (.tmp 3) rfl (w.heap.size) A rfl RA_13.out ?_
  simp only [Act.put, List.setIfInBounds_toArray, List.set_cons_zero, List.set_cons_succ]
  refine qb_zero rfl rfl ?_
  simp only [Act.put, List.setIfInBounds_toArray, List.set_cons_zero, List.set_cons_succ]
  refine qb_call rfl 23 [.tmp 148, .tmp 149] #[23, 23] rfl [vN A, vN 0] rfl (CF23 _) (vN r) C27.out ?_
  simp only [Act.put, List.setIfInBounds_toArray, List.set_cons_zero, List.set_cons_succ]
  refine qb_load rfl (.tmp 9) rfl (g9) r rfl T9_13.out ?_
  simp only [Act.put, List.setIfInBounds_toArray, List.set_cons_zero, List.set_cons_succ]
  refine qb_eq rfl (.tmp 150) (.tmp 151) rfl r r rfl rfl true (eqN_same _) ?_
  simp only [Act.put, List.setIfInBounds_toArray, List.set_cons_zero, List.set_cons_succ]
  refine qb_pick rfl (.tmp 147) (.tmp 152) (.const (.bool false)) rfl true rfl (.bool true) rfl ?_
  simp only [Act.put, List.setIfInBounds_toArray, List.set_cons_zero, List.set_cons_succ]
  refine qb_move rfl (.tmp 153) rfl (.bool true) rfl ?_
  simp only [Act.put, List.setIfInBounds_toArray, List.set_cons_zero, List.set_cons_succ]
  refine qb_load rfl (.tmp 3) rfl (w.heap.size) A rfl RA_13.out ?_
  simp only [Act.put, List.setIfInBounds_toArray, List.set_cons_zero, List.set_cons_succ]
  refine qb_call rfl 12 [.tmp 155] #[23] rfl [vN A] rfl (CF12 _) (.bool cA) C32.out ?_
  simp only [Act.put, List.setIfInBounds_toArray, List.set_cons_zero, List.set_cons_succ]
  refine qb_load rfl (.tmp 9) rfl (g9) r rfl T9_13.out ?_
  simp only [Act.put, List.setIfInBounds_toArray, List.set_cons_zero, List.set_cons_succ]
  refine qb_load rfl (.tmp 3) rfl (w.heap.size) A rfl RA_13.out ?_
  simp only [Act.put, List.setIfInBounds_toArray, List.set_cons_zero, List.set_cons_succ]
  refine qb_eq rfl (.tmp 157) (.tmp 158) rfl r A rfl rfl cA HCA.out ?_
  simp only [Act.put, List.setIfInBounds_toArray, List.set_cons_zero, List.set_cons_succ]
  refine qb_eqb (P := Try.prog) rfl (.tmp 156) (.tmp 159) rfl cA cA true rfl rfl (by cases cA <;> rfl) ?_
  simp only [Act.put, List.setIfInBounds_toArray, List.set_cons_zero, List.set_cons_succ]
  refine qb_pick rfl (.tmp 154) (.tmp 160) (.const (.bool false)) rfl true rfl (.bool true) rfl ?_
  simp only [Act.put, List.setIfInBounds_toArray, List.set_cons_zero, List.set_cons_succ]
  refine qb_assign rfl (.tmp 161) rfl (.bool true) rfl ?_
  simp only [Act.put, List.setIfInBounds_toArray, List.set_cons_zero, List.set_cons_succ]
  refine wpQuiet_nil ?_
  intro y5 hb
  have HBW : Hid (Below w.heap.size w y5) := HB_13.out.trans (hb.mono HB_13.out.size)
  clear hb HB_13 RA_13 RB_13 RC_13 S7_13 S8_13 T9_13
  go_wp2
  go_ret
  exact ⟨rfl, HBW.out⟩

theorem gives_eq {f : FuncId} {args : Array Value} {x y : Nat} {w : World} (e : x = y) (h : Calls Try.prog f args w (Gives (vN x) w)) : Calls Try.prog f args w (Gives (vN y) w) := e ▸ h
theorem P0 : 0 < PP := by unfold PP; omega
theorem zT : 0 < TT := by unfold TT; omega
theorem oT : 1 < TT := by unfold TT; omega
theorem add_self (B : Nat) : PP - B % PP + B = PP * (1 + B / PP) := by
  have h1 := Nat.div_add_mod B PP
  have h2 := Nat.mod_lt B P0
  rw [Nat.mul_add, Nat.mul_one]
  generalize PP * (B / PP) = x at *
  omega
theorem sub_on (A B : Nat) : (A + (PP - B % PP) + B) % PP = A % PP := by rw [Nat.add_assoc, add_self, Nat.add_mul_mod_self_left]
theorem sub_back (A B : Nat) : (A + B + (PP - B % PP)) % PP = A % PP := by rw [Nat.add_assoc, Nat.add_comm B, add_self, Nat.add_mul_mod_self_left]
theorem neg_on (A : Nat) : (A + (PP - A % PP)) % PP = 0 := by rw [Nat.add_comm, add_self, Nat.mul_mod_right]
theorem neg_times (A B : Nat) : (PP - A % PP) % PP * B % PP = (PP - (A * B % PP) % PP) % PP := by
  obtain ⟨k, hk⟩ := k_ex
  rw [neg_mod prP hk, neg_mod prP hk, Nat.mod_mul_mod, Nat.mod_mul_mod]
  congr 1
  rw [Nat.mul_assoc, Nat.mul_comm (PP - 1), Nat.mul_assoc]

theorem walkN (A B C : Nat) (hA : A < TT) (hB : B < TT) (hC : C < TT) (w : World) : Calls Try.prog 5 #[vN A, vN B, vN C] w (Gives (.bool true) w) := by
  have hC0 : ∀ w, Calls Try.prog 23 #[vN A, vN B] w (Gives (vN ((A + B) % PP)) w) := fun w => gives_eq (rfl) (Add_any A B hA hB w)
  have hC1 : ∀ w, Calls Try.prog 28 #[vN A, vN B] w (Gives (vN (A * B % PP)) w) := fun w => gives_eq (rfl) (Mul_any A B hA hB w)
  have hC2 : ∀ w, Calls Try.prog 23 #[vN B, vN A] w (Gives (vN ((A + B) % PP)) w) := fun w => gives_eq (by rw [Nat.add_comm]) (Add_any B A hB hA w)
  have hC3 : ∀ w, Calls Try.prog 28 #[vN B, vN A] w (Gives (vN (A * B % PP)) w) := fun w => gives_eq (by rw [Nat.mul_comm]) (Mul_any B A hB hA w)
  have hC4 : ∀ w, Calls Try.prog 23 #[vN ((A + B) % PP), vN C] w (Gives (vN (((A + B) % PP + C) % PP)) w) := fun w => gives_eq (rfl) (Add_any _ C (modT _) hC w)
  have hC5 : ∀ w, Calls Try.prog 23 #[vN B, vN C] w (Gives (vN ((B + C) % PP)) w) := fun w => gives_eq (rfl) (Add_any B C hB hC w)
  have hC6 : ∀ w, Calls Try.prog 23 #[vN A, vN ((B + C) % PP)] w (Gives (vN (((A + B) % PP + C) % PP)) w) := fun w => gives_eq (by rw [Nat.add_mod_mod, Nat.mod_add_mod, Nat.add_assoc]) (Add_any A _ hA (modT _) w)
  have hC7 : ∀ w, Calls Try.prog 28 #[vN (A * B % PP), vN C] w (Gives (vN (A * B % PP * C % PP)) w) := fun w => gives_eq (rfl) (Mul_any _ C (modT _) hC w)
  have hC8 : ∀ w, Calls Try.prog 28 #[vN B, vN C] w (Gives (vN (B * C % PP)) w) := fun w => gives_eq (rfl) (Mul_any B C hB hC w)
  have hC9 : ∀ w, Calls Try.prog 28 #[vN A, vN (B * C % PP)] w (Gives (vN (A * B % PP * C % PP)) w) := fun w => gives_eq (by rw [Nat.mul_mod_mod, Nat.mod_mul_mod, Nat.mul_assoc]) (Mul_any A _ hA (modT _) w)
  have hC10 : ∀ w, Calls Try.prog 28 #[vN ((A + B) % PP), vN C] w (Gives (vN ((A + B) % PP * C % PP)) w) := fun w => gives_eq (rfl) (Mul_any _ C (modT _) hC w)
  have hC11 : ∀ w, Calls Try.prog 28 #[vN A, vN C] w (Gives (vN (A * C % PP)) w) := fun w => gives_eq (rfl) (Mul_any A C hA hC w)
  have hC12 : ∀ w, Calls Try.prog 23 #[vN (A * C % PP), vN (B * C % PP)] w (Gives (vN ((A + B) % PP * C % PP)) w) := fun w => gives_eq (by rw [← Nat.add_mod, Nat.mod_mul_mod, Nat.add_mul]) (Add_any _ _ (modT _) (modT _) w)
  have hC13 : ∀ w, Calls Try.prog 25 #[vN ((A + B) % PP), vN B] w (Gives (vN (A % PP)) w) := fun w => gives_eq (by rw [Nat.mod_add_mod]; exact sub_back A B) (Sub_any _ B (modT _) hB w)
  have hC14 : ∀ w, Calls Try.prog 11 #[vN A] w (Gives (vN (A % PP)) w) := fun w => gives_eq (rfl) (Rest_any A hA w)
  have hC15 : ∀ w, Calls Try.prog 25 #[vN A, vN B] w (Gives (vN ((A + (PP - B % PP)) % PP)) w) := fun w => gives_eq (rfl) (Sub_any A B hA hB w)
  have hC16 : ∀ w, Calls Try.prog 23 #[vN ((A + (PP - B % PP)) % PP), vN B] w (Gives (vN (A % PP)) w) := fun w => gives_eq (by rw [Nat.mod_add_mod]; exact sub_on A B) (Add_any _ B (modT _) hB w)
  have hC17 : ∀ w, Calls Try.prog 13 #[vN A] w (Gives (vN ((PP - A % PP) % PP)) w) := fun w => gives_eq (rfl) (Neg_any A hA w)
  have hC18 : ∀ w, Calls Try.prog 25 #[vN 0, vN A] w (Gives (vN ((PP - A % PP) % PP)) w) := fun w => gives_eq (by rw [Nat.zero_add]) (Sub_any 0 A zT hA w)
  have hC19 : ∀ w, Calls Try.prog 23 #[vN A, vN ((PP - A % PP) % PP)] w (Gives (vN 0) w) := fun w => gives_eq (by rw [Nat.add_mod_mod]; exact neg_on A) (Add_any A _ hA (modT _) w)
  have hC20 : ∀ w, Calls Try.prog 28 #[vN ((PP - A % PP) % PP), vN B] w (Gives (vN ((PP - (A * B % PP) % PP) % PP)) w) := fun w => gives_eq (neg_times A B) (Mul_any _ B (modT _) hB w)
  have hC21 : ∀ w, Calls Try.prog 13 #[vN (A * B % PP)] w (Gives (vN ((PP - (A * B % PP) % PP) % PP)) w) := fun w => gives_eq (rfl) (Neg_any _ (modT _) w)
  have hC22 : ∀ w, Calls Try.prog 11 #[vN (A % PP)] w (Gives (vN (A % PP)) w) := fun w => gives_eq (Nat.mod_mod _ _) (Rest_any _ (modT _) w)
  have hC23 : ∀ w, Calls Try.prog 11 #[vN B] w (Gives (vN (B % PP)) w) := fun w => gives_eq (rfl) (Rest_any B hB w)
  have hC24 : ∀ w, Calls Try.prog 23 #[vN (A % PP), vN (B % PP)] w (Gives (vN ((A + B) % PP)) w) := fun w => gives_eq (by rw [← Nat.add_mod]) (Add_any _ _ (modT _) (modT _) w)
  have hC25 : ∀ w, Calls Try.prog 28 #[vN (A % PP), vN (B % PP)] w (Gives (vN (A * B % PP)) w) := fun w => gives_eq (by rw [← Nat.mul_mod]) (Mul_any _ _ (modT _) (modT _) w)
  have hC26 : ∀ w, Calls Try.prog 28 #[vN A, vN 1] w (Gives (vN (A % PP)) w) := fun w => gives_eq (by rw [Nat.mul_one]) (Mul_any A 1 hA oT w)
  have hC27 : ∀ w, Calls Try.prog 23 #[vN A, vN 0] w (Gives (vN (A % PP)) w) := fun w => gives_eq (by rw [Nat.add_zero]) (Add_any A 0 hA zT w)
  have hC28 : ∀ w, Calls Try.prog 10 #[] w (Gives (.bool true) w) := lives_any
  have hC29 : ∀ w, Calls Try.prog 12 #[vN ((A + B) % PP)] w (Gives (.bool true) w) := fun w => by
    have h := Canon_any ((A + B) % PP) (modT _) w
    rw [decide_eq_true (Nat.mod_mod _ _).symm] at h
    exact h
  have hC30 : ∀ w, Calls Try.prog 12 #[vN (A * B % PP)] w (Gives (.bool true) w) := fun w => by
    have h := Canon_any (A * B % PP) (modT _) w
    rw [decide_eq_true (Nat.mod_mod _ _).symm] at h
    exact h
  have hC31 : ∀ w, Calls Try.prog 12 #[vN (A % PP)] w (Gives (.bool true) w) := fun w => by
    have h := Canon_any (A % PP) (modT _) w
    rw [decide_eq_true (Nat.mod_mod _ _).symm] at h
    exact h
  have hC32 : ∀ w, Calls Try.prog 12 #[vN A] w (Gives (.bool (decide (A = A % PP))) w) := fun w => Canon_any A hA w
  have hC33 : ∀ w, Calls Try.prog 14 #[.int .u64 1] w (Gives (vN 1) w) := fun w => Of_any 1 (by omega) w
  have hCA : ∀ w, (Op.equalIn 10000 23 (vN (A % PP)) (vN A)).run Try.prog w = .ok (decide (A = A % PP)) w := fun w => by
    rw [eqN _ _ (modT A) hA w]
    congr 1
    rw [Bool.eq_iff_iff, decide_eq_true_eq, decide_eq_true_eq]
    exact ⟨Eq.symm, Eq.symm⟩
  exact ring_core A B C ((A + B) % PP) (A * B % PP) (((A + B) % PP + C) % PP) ((B + C) % PP) (A * B % PP * C % PP) (B * C % PP) ((A + B) % PP * C % PP) (A * C % PP) (A % PP) ((A + (PP - B % PP)) % PP) ((PP - A % PP) % PP) ((PP - (A * B % PP) % PP) % PP) (B % PP) (decide (A = A % PP)) w (Lib.hid hC0) (Lib.hid hC1) (Lib.hid hC2) (Lib.hid hC3) (Lib.hid hC4) (Lib.hid hC5) (Lib.hid hC6) (Lib.hid hC7) (Lib.hid hC8) (Lib.hid hC9) (Lib.hid hC10) (Lib.hid hC11) (Lib.hid hC12) (Lib.hid hC13) (Lib.hid hC14) (Lib.hid hC15) (Lib.hid hC16) (Lib.hid hC17) (Lib.hid hC18) (Lib.hid hC19) (Lib.hid hC20) (Lib.hid hC21) (Lib.hid hC22) (Lib.hid hC23) (Lib.hid hC24) (Lib.hid hC25) (Lib.hid hC26) (Lib.hid hC27) (Lib.hid hC28) (Lib.hid hC29) (Lib.hid hC30) (Lib.hid hC31) (Lib.hid hC32) (Lib.hid hC33) (Lib.hid hCA)

theorem walk (z0 z1 z2 : List UInt8) (w : World) (w0 : z0.length = 32) (w1 : z1.length = 32) (w2 : z2.length = 32) :
    Calls Try.prog 5 #[.agg (bcs z0).toArray, .agg (bcs z1).toArray, .agg (bcs z2).toArray] w fun e w' => e = .returned (.bool true) ∧ Below w.heap.size w w' := by
  obtain ⟨A, hA, eA⟩ := bytes_num z0 w0
  obtain ⟨B, hB, eB⟩ := bytes_num z1 w1
  obtain ⟨C, hC, eC⟩ := bytes_num z2 w2
  rw [eA, eB, eC]
  exact walkN A B C hA hB hC w

set_option maxRecDepth 100000 in
theorem lifted (os : Os) (started : os.Started) (H : Type) (enc : TypeId × Value → H) :
    ReturnsInHanded {} Try.checked os 5 .any (Rows.fieldRingSpec.pre6 enc Try.prog Try.f5 Rows.fieldRingRow.domain false) (Rows.fieldRingSpec.post enc Try.prog Try.f5 false true false false) := by
  refine returnsInHanded_of_change (C := Try.checked) own started (by kernel_rfl) Try.func5
    (ChangeSpec.witness6 (enc := enc) (C := Try.checked) false ⟨#[], #[.agg (Array.replicate 32 (.int .u8 0)), .agg (Array.replicate 32 (.int .u8 0)), .agg (Array.replicate 32 (.int .u8 0))], []⟩ 8 (by kernel_rfl) (by kernel_rfl) (by kernel_rfl) (by kernel_rfl)) ?_
  intro W base args ds gs before hval0 hW hcnd _
  have hval : ∀ (j : Nat) t v, Try.f5.params[j]? = some t → args[j]? = some v → Value.okWide Try.prog W .any base t v := hval0
  have hW' := hW
  obtain ⟨p, q, hA0, hV, rfl, hfz, hnd⟩ := hW
  have hA : DataW.TrodAll enc Try.prog W 0 (fun _ => true) true Try.f5.params.toList args.toList ds p := hA0
  rw [Try.params5] at hA hval
  obtain ⟨v0, vs0, d0, ds0, p0, q0, hargs, rfl, rfl, h0, r0⟩ := trodAll_cons hA
  obtain ⟨v1, vs1, d1, ds1, p1, q1, rfl, rfl, rfl, h1, r1⟩ := trodAll_cons r0
  obtain ⟨v2, vs2, d2, ds2, p2, q2, rfl, rfl, rfl, h2, r2⟩ := trodAll_cons r1
  obtain ⟨rfl, rfl, rfl⟩ := trodAll_nil r2
  obtain rfl : args = #[v0, v1, v2] := by cases args; simp_all
  obtain ⟨rfl, rfl⟩ := trodVars_none hV
  have k0 := h0
  have lt0 : ∀ x ∈ p0, x.block < W.heap.size := by obtain ⟨m, hm⟩ := k0; exact DataW.trod_lt m _ _ _ hm
  obtain ⟨z0, w0, rfl⟩ := open_arr Try.underlying23 Try.underlying5 (by kernel_rfl) (by kernel_rfl) (hval 0 23 v0 rfl rfl) h0
  have k1 := h1
  have lt1 : ∀ x ∈ p1, x.block < W.heap.size := by obtain ⟨m, hm⟩ := k1; exact DataW.trod_lt m _ _ _ hm
  obtain ⟨z1, w1, rfl⟩ := open_arr Try.underlying23 Try.underlying5 (by kernel_rfl) (by kernel_rfl) (hval 1 23 v1 rfl rfl) h1
  have k2 := h2
  have lt2 : ∀ x ∈ p2, x.block < W.heap.size := by obtain ⟨m, hm⟩ := k2; exact DataW.trod_lt m _ _ _ hm
  obtain ⟨z2, w2, rfl⟩ := open_arr Try.underlying23 Try.underlying5 (by kernel_rfl) (by kernel_rfl) (hval 2 23 v2 rfl rfl) h2
  clear hA0 hval0
  refine (walk z0 z1 z2 W w0 w1 w2).mono fun e W' ⟨he, bel⟩ => ?_
  subst he
  exact ⟨_, rfl, _, _, _, [], _, [], hW', trodAll_mk1 (shut_bool Try.underlying4 _), (trodAll_cons_mk (Below.trod laidOut (by kernel_rfl) (of_decide_eq_true (by kernel_rfl)) k0 bel lt0) (trodAll_cons_mk (Below.trod laidOut (by kernel_rfl) (of_decide_eq_true (by kernel_rfl)) k1 bel lt1) (trodAll_cons_mk (Below.trod laidOut (by kernel_rfl) (of_decide_eq_true (by kernel_rfl)) k2 bel lt2) trodAll_mk0))), rfl, bel.frame _, fun h => by cases h⟩

theorem over : Rows.fieldRingRow.holds Try.pinned (OpenSpec.ofChange Rows.fieldRingSpec) :=
  OpenClaim.holds_of_wide 5 Try.f5 rfl rfl rfl rfl rfl rfl rfl ⟨rfl, rfl, rfl, rfl, rfl⟩ rfl rfl rfl rfl rfl (by kernel_rfl) Try.func5 (by kernel_rfl)
    (of_decide_eq_true (by kernel_rfl)) (by unfold Func.isWrapper; first | (rw [if_pos (by decide +kernel)]; kernel_rfl) | (rw [if_neg (by decide +kernel)]; exact ⟨rfl, rfl⟩))
    (fun os started H enc _ => lifted os started H enc)

/-- The statement. -/
theorem proved : Rows.FieldRingSaid := over
#print axioms proved
end Go.Proofs.Ytlkjengcmlfknaa.fieldRing
