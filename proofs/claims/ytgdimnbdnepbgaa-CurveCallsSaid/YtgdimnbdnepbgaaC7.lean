/- Several texts in one. No statement is proved here. -/
import Derived.Test.YtgdimnbdnepbgaaC5
import Derived.Test.YtgdimnbdnepbgaaC6
/- The reference's Root. No statement is proved here. -/
namespace Go.Proofs.Ytgdimnbdnepbgaa
open Go.RowKit
set_option linter.unusedVariables false
set_option maxRecDepth 40000
set_option linter.unusedSimpArgs false

set_option maxHeartbeats 4000000 in
theorem rRoot_core (a e1 r x0 m0 e2 i x1 m1 n0 n1 xx : Nat) (b1 b2 o0 o1 ok : Bool) (w : World)
    (HS1 : Hid (∀ w, Calls Try.prog 64 #[.int .i64 5, .int .i64 3] w (Gives (vN e1) w)))
    (HP1 : Hid (∀ w, Calls Try.prog 28 #[vN a, vN e1] w (Gives (vN r) w)))
    (HM1 : Hid (∀ w, Calls Try.prog 26 #[vN r, vN a] w (Gives (vN x0) w)))
    (HM2 : Hid (∀ w, Calls Try.prog 26 #[vN x0, vN x0] w (Gives (vN m0) w)))
    (HB1 : Hid (∀ w, Calls Try.prog 34 #[vN m0, vN a] w (Gives (.bool b1) w)))
    (HOf : Hid (∀ w, Calls Try.prog 18 #[.int .u64 2] w (Gives (vN 2) w)))
    (HS2 : Hid (∀ w, Calls Try.prog 64 #[.int .i64 1, .int .i64 2] w (Gives (vN e2) w)))
    (HP2 : Hid (∀ w, Calls Try.prog 28 #[vN 2, vN e2] w (Gives (vN i) w)))
    (HM3 : Hid (∀ w, Calls Try.prog 26 #[vN x0, vN i] w (Gives (vN x1) w)))
    (HM4 : Hid (∀ w, Calls Try.prog 26 #[vN x1, vN x1] w (Gives (vN m1) w)))
    (HB2 : Hid (∀ w, Calls Try.prog 34 #[vN m1, vN a] w (Gives (.bool b2) w)))
    (HO0 : Hid (∀ w, Calls Try.prog 32 #[vN x0] w (Gives (.bool o0) w)))
    (HN0 : Hid (∀ w, Calls Try.prog 24 #[vN x0] w (Gives (vN n0) w)))
    (HO1 : Hid (∀ w, Calls Try.prog 32 #[vN x1] w (Gives (.bool o1) w)))
    (HN1 : Hid (∀ w, Calls Try.prog 24 #[vN x1] w (Gives (vN n1) w)))
    (HX : Hid ((xx, ok) = (if b1 then (if o0 then n0 else x0, true) else if b2 then (if o1 then n1 else x1, true) else (0, false)))) :
    Calls Try.prog 12 #[vN a] w (Gives (.tuple #[vN xx, .bool ok]) w) := by
  go_enter Try.func12, Try.ntmps12
  go_wp2_with (first | ((with_reducible show wpList _ _ _ (⟨some 1, .box 23 (.tmp 0), _, _, _, _⟩ :: _) _ _); go_must (refine wpList_box_row rfl 23 (.tmp 0) rfl (bcs (enc a)).toArray rfl ?_; intro w1 h1 z1 g1; have H1 := Lib.hid h1; have Z1 := Lib.hid z1; have G1 := Lib.hid g1; clear h1 z1 g1)) | ((with_reducible show wpList _ _ _ (⟨some 2, .alloc 23, _, _, _, _⟩ :: _) _ _); go_must (refine wpList_alloc_row rfl 23 rfl (.agg (zbs 32)) zero23 ?_; intro w2 h1 z1 g1; have H2 := Lib.hid h1; have Z2 := Lib.hid z1; have G2 := Lib.hid g1; clear h1 z1 g1)))
  have R : Hid (NAt w2 w.heap.size a) := NAt.grown ⟨23, H1.out⟩ G2.out (by simp)
  have HB : Hid (Below w.heap.size w w2) := (below_of_grownBy G1.out).trans ((below_of_grownBy G2.out).mono (by have := Z1.out; omega))
  have Z : Hid (ZAt w2 (w.heap.size + 1)) := by
    have h := H2.out
    rw [Z1.out] at h
    exact h
  rw [show w1.heap.size = w.heap.size + 1 from Z1.out]
  have HLTwheapsize : Hid (w.heap.size < w2.heap.size) := R.out.lt
  have HLTwheapsizep1 : Hid (w.heap.size + 1 < w2.heap.size) := Z.out.lt
  clear H1 Z1 G1 H2 Z2 G2
  refine region_split (fun a' W => ∃ g, NAt W w.heap.size a ∧ ZAt W (w.heap.size + 1) ∧ NAt W g x0 ∧ w2.heap.size ≤ g ∧ Below w.heap.size w W ∧ a' = ⟨#[vN a, .pointer (some ⟨w.heap.size, 0, none⟩), .pointer (some ⟨w.heap.size + 1, 0, none⟩), .bool false, .pointer (some ⟨g, 0, none⟩), vN a, vN e1, vN r, vN a, vN x0, undef, undef, undef, undef, undef, undef, undef, undef, undef, undef, undef, undef, undef, undef, undef, undef, undef, undef, undef, undef, undef, undef, undef], []⟩) ?_ ?_
  · refine startW (fun j => j == 6) (w2.heap.size) (by kernel_rfl) ?_
    obtain ⟨D1, hD1⟩ : ∃ D, D = w2.drew := ⟨_, rfl⟩
    rw [← hD1]
    have HLD1 : Hid (w2.heap.size ≤ D1.heap.size) := Lib.hid (by rw [hD1]; exact Nat.le_refl _)
    have HBD1 : Hid (Below w.heap.size w D1) := Lib.hid (by rw [hD1]; exact below_drewN' HB.out 1)
    have R0D1 : Hid (NAt D1 (w.heap.size) a) := Lib.hid (by rw [hD1]; exact R.out)
    have Z0D1 : Hid (ZAt D1 (w.heap.size + 1)) := Lib.hid (by rw [hD1]; exact Z.out)
    clear hD1
    refine takeT (i := 0) (oi := { dst := some 5, op := Op.load 23 (Operand.tmp 1), type := 23, pos := "ref.go:185", after := #[], guard := none }) (vN a) rfl (by kernel_rfl) (by kernel_rfl) (by kernel_rfl) (by kernel_rfl) (by kernel_rfl) (fun _ _ _ h => nomatch h.1) (by rfl) (fun w' hk => exec_load23 (.tmp 1) rfl (w.heap.size) a rfl (R0D1.out.below hk HLTwheapsize.out)) ?_
    simp only [Act.put, List.setIfInBounds_toArray, List.set_cons_zero, List.set_cons_succ]
    refine takeT (i := 3) (oi := { dst := some 8, op := Op.load 23 (Operand.tmp 1), type := 23, pos := "ref.go:185", after := #[], guard := none }) (vN a) rfl (by kernel_rfl) (by kernel_rfl) (by kernel_rfl) (by kernel_rfl) (by kernel_rfl) (fun _ _ _ h => nomatch h.1) (by rfl) (fun w' hk => exec_load23 (.tmp 1) rfl (w.heap.size) a rfl (R0D1.out.below hk HLTwheapsize.out)) ?_
    simp only [Act.put, List.setIfInBounds_toArray, List.set_cons_zero, List.set_cons_succ]
    refine eachW [1, 5] (by kernel_rfl) (by simp) ?_
    intro k hk
    simp only [List.mem_cons, List.not_mem_nil, or_false] at hk
    rcases hk with rfl | rfl
    · refine wpOp_call (i := 1) (oi := { dst := some 6, op := Op.call { callee := Callee.value (Operand.func 64), args := #[Operand.const (Value.int IntKind.i64 5), Operand.const (Value.int IntKind.i64 3)], argTypes := #[3, 3] }, type := 23, pos := "ref.go:185", after := #[], guard := none }) rfl (by rfl) (exec_callL 64 [.const (.int .i64 5), .const (.int .i64 3)] #[3, 3] rfl [.int .i64 5, .int .i64 3] rfl (CG64 _)) ((HS1.out D1).mono ?_)
      rintro eW2 W2 ⟨rfl, hbW2⟩
      refine ⟨_, rfl, fun _ => hbW2.mono HLD1.out, ?_⟩
      have HBW2 : Hid (Below w.heap.size w W2) := Lib.hid (HBD1.out.trans (hbW2.mono HBD1.out.size))
      have HLW2 : Hid (w2.heap.size ≤ W2.heap.size) := Lib.hid (Nat.le_trans HLD1.out hbW2.size)
      have R0D1_W2 := Lib.hid (R0D1.out.keep hbW2)
      have Z0D1_W2 := Lib.hid (Z0D1.out.keep hbW2)
      clear hbW2 HBD1 HLD1 R0D1 Z0D1
      simp only [Act.put, List.setIfInBounds_toArray, List.set_cons_zero, List.set_cons_succ]
      refine eachW [2, 5] (by kernel_rfl) (by simp) ?_
      intro k hk
      simp only [List.mem_cons, List.not_mem_nil, or_false] at hk
      rcases hk with rfl | rfl
      · refine wpOp_call (i := 2) (oi := { dst := some 7, op := Op.call { callee := Callee.value (Operand.func 28), args := #[Operand.tmp 5, Operand.tmp 6], argTypes := #[23, 23] }, type := 23, pos := "ref.go:185", after := #[{ on := 0, ground := Ground.data }, { on := 1, ground := Ground.data }, { on := 1, ground := Ground.chain }], guard := none }) rfl (by rfl) (exec_callL 28 [.tmp 5, .tmp 6] #[23, 23] rfl [vN a, vN e1] rfl (CG28 _)) ((HP1.out W2).mono ?_)
        rintro eW3 W3 ⟨rfl, hbW3⟩
        refine ⟨_, rfl, fun _ => hbW3.mono HLW2.out, ?_⟩
        have HBW3 : Hid (Below w.heap.size w W3) := Lib.hid (HBW2.out.trans (hbW3.mono HBW2.out.size))
        have HLW3 : Hid (w2.heap.size ≤ W3.heap.size) := Lib.hid (Nat.le_trans HLW2.out hbW3.size)
        have R0D1_W3 := Lib.hid (R0D1_W2.out.keep hbW3)
        have Z0D1_W3 := Lib.hid (Z0D1_W2.out.keep hbW3)
        clear hbW3 HBW2 HLW2 R0D1_W2 Z0D1_W2
        simp only [Act.put, List.setIfInBounds_toArray, List.set_cons_zero, List.set_cons_succ]
        refine eachW [4, 5] (by kernel_rfl) (by simp) ?_
        intro k hk
        simp only [List.mem_cons, List.not_mem_nil, or_false] at hk
        rcases hk with rfl | rfl
        · refine wpOp_call (i := 4) (oi := { dst := some 9, op := Op.call { callee := Callee.value (Operand.func 26), args := #[Operand.tmp 7, Operand.tmp 8], argTypes := #[23, 23] }, type := 23, pos := "ref.go:185", after := #[{ on := 2, ground := Ground.data }, { on := 3, ground := Ground.data }, { on := 2, ground := Ground.chain }], guard := none }) rfl (by rfl) (exec_callL 26 [.tmp 7, .tmp 8] #[23, 23] rfl [vN r, vN a] rfl (CG26 _)) ((HM1.out W3).mono ?_)
          rintro eW4 W4 ⟨rfl, hbW4⟩
          refine ⟨_, rfl, fun _ => hbW4.mono HLW3.out, ?_⟩
          have HBW4 : Hid (Below w.heap.size w W4) := Lib.hid (HBW3.out.trans (hbW4.mono HBW3.out.size))
          have HLW4 : Hid (w2.heap.size ≤ W4.heap.size) := Lib.hid (Nat.le_trans HLW3.out hbW4.size)
          have R0D1_W4 := Lib.hid (R0D1_W3.out.keep hbW4)
          have Z0D1_W4 := Lib.hid (Z0D1_W3.out.keep hbW4)
          clear hbW4 HBW3 HLW3 R0D1_W3 Z0D1_W3
          simp only [Act.put, List.setIfInBounds_toArray, List.set_cons_zero, List.set_cons_succ]
          refine opW _ _ (i := 5) (oi := { dst := some 4, op := Op.alloc 23, type := 0, pos := "ref.go:185", after := #[], guard := none }) rfl (by kernel_rfl) (by rfl) (exec_alloc 23 rfl (.agg (zbs 32)) zero23 W4) (fun _ => (below_alloc W4 _).mono HLW4.out) ?_
          obtain ⟨W5, hW5, hbW5, hzW5⟩ := alloc_zero W4
          rw [← hW5]
          obtain ⟨gW5, hgW5⟩ : ∃ g, g = W4.heap.size := ⟨_, rfl⟩
          rw [← hgW5] at hzW5 ⊢
          have HGgW5 : Hid (w2.heap.size ≤ gW5) := Lib.hid (by rw [hgW5]; exact HLW4.out)
          have HBW5 : Hid (Below w.heap.size w W5) := Lib.hid (HBW4.out.trans (hbW5.mono HBW4.out.size))
          have HLW5 : Hid (w2.heap.size ≤ W5.heap.size) := Lib.hid (Nat.le_trans HLW4.out hbW5.size)
          have R0D1_W5 := Lib.hid (R0D1_W4.out.keep hbW5)
          have Z0D1_W5 := Lib.hid (Z0D1_W4.out.keep hbW5)
          have ZAgW5_W5 := Lib.hid hzW5
          clear hbW5 HBW4 HLW4 R0D1_W4 Z0D1_W4 hzW5 hgW5 hW5
          simp only [Act.put, List.setIfInBounds_toArray, List.set_cons_zero, List.set_cons_succ]
          refine storeW_all (i := 6) (oi := { dst := none, op := Op.store 23 (Operand.tmp 4) (Operand.tmp 9), type := 0, pos := "ref.go:185", after := #[{ on := 5, ground := Ground.data }, { on := 4, ground := Ground.data }, { on := 4, ground := Ground.chain }, { on := 0, ground := Ground.phase }, { on := 1, ground := Ground.phase }, { on := 2, ground := Ground.phase }, { on := 3, ground := Ground.phase }, { on := 4, ground := Ground.phase }, { on := 5, ground := Ground.phase }], guard := none }) rfl (by kernel_rfl) (by rfl) 23 (.tmp 4) (.tmp 9) rfl (gW5) rfl (bcs (enc x0)).toArray rfl 23 _ ZAgW5_W5.out (by rw [List.size_toArray, bcs_enc_len]; exact size23) (by rw [List.size_toArray, bcs_enc_len]; rfl) (bcs_one _) rfl ?_
          intro W6 hhW6 hgW6 hzW6
          simp only [Act.put, List.setIfInBounds_toArray, List.set_cons_zero, List.set_cons_succ]
          have R0D1_W6 := Lib.hid (R0D1_W5.out.grown hgW6 (by have := HGgW5.out; have := HLTwheapsize.out; simp; omega))
          have Z0D1_W6 := Lib.hid (Z0D1_W5.out.grown hgW6 (by have := HGgW5.out; have := HLTwheapsizep1.out; simp; omega))
          have SgW5_W6 : Hid (NAt W6 (gW5) x0) := Lib.hid ⟨23, hhW6⟩
          have HBW6 : Hid (Below w.heap.size w W6) := Lib.hid (HBW5.out.grown hgW6 HBW5.out.size (fun r hr => by injection hr with hr; have := HGgW5.out; have := HB.out.size; omega))
          have HLW6 : Hid (w2.heap.size ≤ W6.heap.size) := Lib.hid (Nat.le_trans HLW5.out hgW6.size)
          clear hhW6 hgW6 hzW6 HBW5 HLW5 R0D1_W5 Z0D1_W5 ZAgW5_W5
          refine doneW (by kernel_rfl) ⟨rfl, ?_⟩ _
          exact ⟨gW5, R0D1_W6.out, Z0D1_W6.out, SgW5_W6.out, HGgW5.out, HBW6.out, rfl⟩
        · refine wpOp_value (i := 5) (oi := { dst := some 4, op := Op.alloc 23, type := 0, pos := "ref.go:185", after := #[], guard := none }) rfl (by rfl) (exec_alloc 23 rfl (.agg (zbs 32)) zero23 W3) ⟨fun _ => (below_alloc W3 _).mono HLW3.out, ?_⟩
          obtain ⟨W7, hW7, hbW7, hzW7⟩ := alloc_zero W3
          rw [← hW7]
          obtain ⟨gW7, hgW7⟩ : ∃ g, g = W3.heap.size := ⟨_, rfl⟩
          rw [← hgW7] at hzW7 ⊢
          have HGgW7 : Hid (w2.heap.size ≤ gW7) := Lib.hid (by rw [hgW7]; exact HLW3.out)
          have HBW7 : Hid (Below w.heap.size w W7) := Lib.hid (HBW3.out.trans (hbW7.mono HBW3.out.size))
          have HLW7 : Hid (w2.heap.size ≤ W7.heap.size) := Lib.hid (Nat.le_trans HLW3.out hbW7.size)
          have R0D1_W7 := Lib.hid (R0D1_W3.out.keep hbW7)
          have Z0D1_W7 := Lib.hid (Z0D1_W3.out.keep hbW7)
          have ZAgW7_W7 := Lib.hid hzW7
          clear hbW7 HBW3 HLW3 R0D1_W3 Z0D1_W3 hzW7 hgW7 hW7
          simp only [Act.put, List.setIfInBounds_toArray, List.set_cons_zero, List.set_cons_succ]
          refine callW (i := 4) (oi := { dst := some 9, op := Op.call { callee := Callee.value (Operand.func 26), args := #[Operand.tmp 7, Operand.tmp 8], argTypes := #[23, 23] }, type := 23, pos := "ref.go:185", after := #[{ on := 2, ground := Ground.data }, { on := 3, ground := Ground.data }, { on := 2, ground := Ground.chain }], guard := none }) rfl (by kernel_rfl) (by rfl) (exec_callL 26 [.tmp 7, .tmp 8] #[23, 23] rfl [vN r, vN a] rfl (CG26 _)) ((HM1.out W7).mono ?_)
          rintro eW8 W8 ⟨rfl, hbW8⟩
          refine ⟨_, rfl, fun _ => hbW8.mono HLW7.out, ?_⟩
          have HBW8 : Hid (Below w.heap.size w W8) := Lib.hid (HBW7.out.trans (hbW8.mono HBW7.out.size))
          have HLW8 : Hid (w2.heap.size ≤ W8.heap.size) := Lib.hid (Nat.le_trans HLW7.out hbW8.size)
          have R0D1_W8 := Lib.hid (R0D1_W7.out.keep hbW8)
          have Z0D1_W8 := Lib.hid (Z0D1_W7.out.keep hbW8)
          have ZAgW7_W8 := Lib.hid (ZAgW7_W7.out.keep hbW8)
          clear hbW8 HBW7 HLW7 R0D1_W7 Z0D1_W7 ZAgW7_W7
          simp only [Act.put, List.setIfInBounds_toArray, List.set_cons_zero, List.set_cons_succ]
          refine storeW_all (i := 6) (oi := { dst := none, op := Op.store 23 (Operand.tmp 4) (Operand.tmp 9), type := 0, pos := "ref.go:185", after := #[{ on := 5, ground := Ground.data }, { on := 4, ground := Ground.data }, { on := 4, ground := Ground.chain }, { on := 0, ground := Ground.phase }, { on := 1, ground := Ground.phase }, { on := 2, ground := Ground.phase }, { on := 3, ground := Ground.phase }, { on := 4, ground := Ground.phase }, { on := 5, ground := Ground.phase }], guard := none }) rfl (by kernel_rfl) (by rfl) 23 (.tmp 4) (.tmp 9) rfl (gW7) rfl (bcs (enc x0)).toArray rfl 23 _ ZAgW7_W8.out (by rw [List.size_toArray, bcs_enc_len]; exact size23) (by rw [List.size_toArray, bcs_enc_len]; rfl) (bcs_one _) rfl ?_
          intro W9 hhW9 hgW9 hzW9
          simp only [Act.put, List.setIfInBounds_toArray, List.set_cons_zero, List.set_cons_succ]
          have R0D1_W9 := Lib.hid (R0D1_W8.out.grown hgW9 (by have := HGgW7.out; have := HLTwheapsize.out; simp; omega))
          have Z0D1_W9 := Lib.hid (Z0D1_W8.out.grown hgW9 (by have := HGgW7.out; have := HLTwheapsizep1.out; simp; omega))
          have SgW7_W9 : Hid (NAt W9 (gW7) x0) := Lib.hid ⟨23, hhW9⟩
          have HBW9 : Hid (Below w.heap.size w W9) := Lib.hid (HBW8.out.grown hgW9 HBW8.out.size (fun r hr => by injection hr with hr; have := HGgW7.out; have := HB.out.size; omega))
          have HLW9 : Hid (w2.heap.size ≤ W9.heap.size) := Lib.hid (Nat.le_trans HLW8.out hgW9.size)
          clear hhW9 hgW9 hzW9 HBW8 HLW8 R0D1_W8 Z0D1_W8 ZAgW7_W8
          refine doneW (by kernel_rfl) ⟨rfl, ?_⟩ _
          exact ⟨gW7, R0D1_W9.out, Z0D1_W9.out, SgW7_W9.out, HGgW7.out, HBW9.out, rfl⟩
      · refine wpOp_value (i := 5) (oi := { dst := some 4, op := Op.alloc 23, type := 0, pos := "ref.go:185", after := #[], guard := none }) rfl (by rfl) (exec_alloc 23 rfl (.agg (zbs 32)) zero23 W2) ⟨fun _ => (below_alloc W2 _).mono HLW2.out, ?_⟩
        obtain ⟨W10, hW10, hbW10, hzW10⟩ := alloc_zero W2
        rw [← hW10]
        obtain ⟨gW10, hgW10⟩ : ∃ g, g = W2.heap.size := ⟨_, rfl⟩
        rw [← hgW10] at hzW10 ⊢
        have HGgW10 : Hid (w2.heap.size ≤ gW10) := Lib.hid (by rw [hgW10]; exact HLW2.out)
        have HBW10 : Hid (Below w.heap.size w W10) := Lib.hid (HBW2.out.trans (hbW10.mono HBW2.out.size))
        have HLW10 : Hid (w2.heap.size ≤ W10.heap.size) := Lib.hid (Nat.le_trans HLW2.out hbW10.size)
        have R0D1_W10 := Lib.hid (R0D1_W2.out.keep hbW10)
        have Z0D1_W10 := Lib.hid (Z0D1_W2.out.keep hbW10)
        have ZAgW10_W10 := Lib.hid hzW10
        clear hbW10 HBW2 HLW2 R0D1_W2 Z0D1_W2 hzW10 hgW10 hW10
        simp only [Act.put, List.setIfInBounds_toArray, List.set_cons_zero, List.set_cons_succ]
        refine callW (i := 2) (oi := { dst := some 7, op := Op.call { callee := Callee.value (Operand.func 28), args := #[Operand.tmp 5, Operand.tmp 6], argTypes := #[23, 23] }, type := 23, pos := "ref.go:185", after := #[{ on := 0, ground := Ground.data }, { on := 1, ground := Ground.data }, { on := 1, ground := Ground.chain }], guard := none }) rfl (by kernel_rfl) (by rfl) (exec_callL 28 [.tmp 5, .tmp 6] #[23, 23] rfl [vN a, vN e1] rfl (CG28 _)) ((HP1.out W10).mono ?_)
        rintro eW11 W11 ⟨rfl, hbW11⟩
        refine ⟨_, rfl, fun _ => hbW11.mono HLW10.out, ?_⟩
        have HBW11 : Hid (Below w.heap.size w W11) := Lib.hid (HBW10.out.trans (hbW11.mono HBW10.out.size))
        have HLW11 : Hid (w2.heap.size ≤ W11.heap.size) := Lib.hid (Nat.le_trans HLW10.out hbW11.size)
        have R0D1_W11 := Lib.hid (R0D1_W10.out.keep hbW11)
        have Z0D1_W11 := Lib.hid (Z0D1_W10.out.keep hbW11)
        have ZAgW10_W11 := Lib.hid (ZAgW10_W10.out.keep hbW11)
        clear hbW11 HBW10 HLW10 R0D1_W10 Z0D1_W10 ZAgW10_W10
        simp only [Act.put, List.setIfInBounds_toArray, List.set_cons_zero, List.set_cons_succ]
        refine callW (i := 4) (oi := { dst := some 9, op := Op.call { callee := Callee.value (Operand.func 26), args := #[Operand.tmp 7, Operand.tmp 8], argTypes := #[23, 23] }, type := 23, pos := "ref.go:185", after := #[{ on := 2, ground := Ground.data }, { on := 3, ground := Ground.data }, { on := 2, ground := Ground.chain }], guard := none }) rfl (by kernel_rfl) (by rfl) (exec_callL 26 [.tmp 7, .tmp 8] #[23, 23] rfl [vN r, vN a] rfl (CG26 _)) ((HM1.out W11).mono ?_)
        rintro eW12 W12 ⟨rfl, hbW12⟩
        refine ⟨_, rfl, fun _ => hbW12.mono HLW11.out, ?_⟩
        have HBW12 : Hid (Below w.heap.size w W12) := Lib.hid (HBW11.out.trans (hbW12.mono HBW11.out.size))
        have HLW12 : Hid (w2.heap.size ≤ W12.heap.size) := Lib.hid (Nat.le_trans HLW11.out hbW12.size)
        have R0D1_W12 := Lib.hid (R0D1_W11.out.keep hbW12)
        have Z0D1_W12 := Lib.hid (Z0D1_W11.out.keep hbW12)
        have ZAgW10_W12 := Lib.hid (ZAgW10_W11.out.keep hbW12)
        clear hbW12 HBW11 HLW11 R0D1_W11 Z0D1_W11 ZAgW10_W11
        simp only [Act.put, List.setIfInBounds_toArray, List.set_cons_zero, List.set_cons_succ]
        refine storeW_all (i := 6) (oi := { dst := none, op := Op.store 23 (Operand.tmp 4) (Operand.tmp 9), type := 0, pos := "ref.go:185", after := #[{ on := 5, ground := Ground.data }, { on := 4, ground := Ground.data }, { on := 4, ground := Ground.chain }, { on := 0, ground := Ground.phase }, { on := 1, ground := Ground.phase }, { on := 2, ground := Ground.phase }, { on := 3, ground := Ground.phase }, { on := 4, ground := Ground.phase }, { on := 5, ground := Ground.phase }], guard := none }) rfl (by kernel_rfl) (by rfl) 23 (.tmp 4) (.tmp 9) rfl (gW10) rfl (bcs (enc x0)).toArray rfl 23 _ ZAgW10_W12.out (by rw [List.size_toArray, bcs_enc_len]; exact size23) (by rw [List.size_toArray, bcs_enc_len]; rfl) (bcs_one _) rfl ?_
        intro W13 hhW13 hgW13 hzW13
        simp only [Act.put, List.setIfInBounds_toArray, List.set_cons_zero, List.set_cons_succ]
        have R0D1_W13 := Lib.hid (R0D1_W12.out.grown hgW13 (by have := HGgW10.out; have := HLTwheapsize.out; simp; omega))
        have Z0D1_W13 := Lib.hid (Z0D1_W12.out.grown hgW13 (by have := HGgW10.out; have := HLTwheapsizep1.out; simp; omega))
        have SgW10_W13 : Hid (NAt W13 (gW10) x0) := Lib.hid ⟨23, hhW13⟩
        have HBW13 : Hid (Below w.heap.size w W13) := Lib.hid (HBW12.out.grown hgW13 HBW12.out.size (fun r hr => by injection hr with hr; have := HGgW10.out; have := HB.out.size; omega))
        have HLW13 : Hid (w2.heap.size ≤ W13.heap.size) := Lib.hid (Nat.le_trans HLW12.out hgW13.size)
        clear hhW13 hgW13 hzW13 HBW12 HLW12 R0D1_W12 Z0D1_W12 ZAgW10_W12
        refine doneW (by kernel_rfl) ⟨rfl, ?_⟩ _
        exact ⟨gW10, R0D1_W13.out, Z0D1_W13.out, SgW10_W13.out, HGgW10.out, HBW13.out, rfl⟩
    · refine wpOp_value (i := 5) (oi := { dst := some 4, op := Op.alloc 23, type := 0, pos := "ref.go:185", after := #[], guard := none }) rfl (by rfl) (exec_alloc 23 rfl (.agg (zbs 32)) zero23 D1) ⟨fun _ => (below_alloc D1 _).mono HLD1.out, ?_⟩
      obtain ⟨W14, hW14, hbW14, hzW14⟩ := alloc_zero D1
      rw [← hW14]
      obtain ⟨gW14, hgW14⟩ : ∃ g, g = D1.heap.size := ⟨_, rfl⟩
      rw [← hgW14] at hzW14 ⊢
      have HGgW14 : Hid (w2.heap.size ≤ gW14) := Lib.hid (by rw [hgW14]; exact HLD1.out)
      have HBW14 : Hid (Below w.heap.size w W14) := Lib.hid (HBD1.out.trans (hbW14.mono HBD1.out.size))
      have HLW14 : Hid (w2.heap.size ≤ W14.heap.size) := Lib.hid (Nat.le_trans HLD1.out hbW14.size)
      have R0D1_W14 := Lib.hid (R0D1.out.keep hbW14)
      have Z0D1_W14 := Lib.hid (Z0D1.out.keep hbW14)
      have ZAgW14_W14 := Lib.hid hzW14
      clear hbW14 HBD1 HLD1 R0D1 Z0D1 hzW14 hgW14 hW14
      simp only [Act.put, List.setIfInBounds_toArray, List.set_cons_zero, List.set_cons_succ]
      refine callW (i := 1) (oi := { dst := some 6, op := Op.call { callee := Callee.value (Operand.func 64), args := #[Operand.const (Value.int IntKind.i64 5), Operand.const (Value.int IntKind.i64 3)], argTypes := #[3, 3] }, type := 23, pos := "ref.go:185", after := #[], guard := none }) rfl (by kernel_rfl) (by rfl) (exec_callL 64 [.const (.int .i64 5), .const (.int .i64 3)] #[3, 3] rfl [.int .i64 5, .int .i64 3] rfl (CG64 _)) ((HS1.out W14).mono ?_)
      rintro eW15 W15 ⟨rfl, hbW15⟩
      refine ⟨_, rfl, fun _ => hbW15.mono HLW14.out, ?_⟩
      have HBW15 : Hid (Below w.heap.size w W15) := Lib.hid (HBW14.out.trans (hbW15.mono HBW14.out.size))
      have HLW15 : Hid (w2.heap.size ≤ W15.heap.size) := Lib.hid (Nat.le_trans HLW14.out hbW15.size)
      have R0D1_W15 := Lib.hid (R0D1_W14.out.keep hbW15)
      have Z0D1_W15 := Lib.hid (Z0D1_W14.out.keep hbW15)
      have ZAgW14_W15 := Lib.hid (ZAgW14_W14.out.keep hbW15)
      clear hbW15 HBW14 HLW14 R0D1_W14 Z0D1_W14 ZAgW14_W14
      simp only [Act.put, List.setIfInBounds_toArray, List.set_cons_zero, List.set_cons_succ]
      refine callW (i := 2) (oi := { dst := some 7, op := Op.call { callee := Callee.value (Operand.func 28), args := #[Operand.tmp 5, Operand.tmp 6], argTypes := #[23, 23] }, type := 23, pos := "ref.go:185", after := #[{ on := 0, ground := Ground.data }, { on := 1, ground := Ground.data }, { on := 1, ground := Ground.chain }], guard := none }) rfl (by kernel_rfl) (by rfl) (exec_callL 28 [.tmp 5, .tmp 6] #[23, 23] rfl [vN a, vN e1] rfl (CG28 _)) ((HP1.out W15).mono ?_)
      rintro eW16 W16 ⟨rfl, hbW16⟩
      refine ⟨_, rfl, fun _ => hbW16.mono HLW15.out, ?_⟩
      have HBW16 : Hid (Below w.heap.size w W16) := Lib.hid (HBW15.out.trans (hbW16.mono HBW15.out.size))
      have HLW16 : Hid (w2.heap.size ≤ W16.heap.size) := Lib.hid (Nat.le_trans HLW15.out hbW16.size)
      have R0D1_W16 := Lib.hid (R0D1_W15.out.keep hbW16)
      have Z0D1_W16 := Lib.hid (Z0D1_W15.out.keep hbW16)
      have ZAgW14_W16 := Lib.hid (ZAgW14_W15.out.keep hbW16)
      clear hbW16 HBW15 HLW15 R0D1_W15 Z0D1_W15 ZAgW14_W15
      simp only [Act.put, List.setIfInBounds_toArray, List.set_cons_zero, List.set_cons_succ]
      refine callW (i := 4) (oi := { dst := some 9, op := Op.call { callee := Callee.value (Operand.func 26), args := #[Operand.tmp 7, Operand.tmp 8], argTypes := #[23, 23] }, type := 23, pos := "ref.go:185", after := #[{ on := 2, ground := Ground.data }, { on := 3, ground := Ground.data }, { on := 2, ground := Ground.chain }], guard := none }) rfl (by kernel_rfl) (by rfl) (exec_callL 26 [.tmp 7, .tmp 8] #[23, 23] rfl [vN r, vN a] rfl (CG26 _)) ((HM1.out W16).mono ?_)
      rintro eW17 W17 ⟨rfl, hbW17⟩
      refine ⟨_, rfl, fun _ => hbW17.mono HLW16.out, ?_⟩
      have HBW17 : Hid (Below w.heap.size w W17) := Lib.hid (HBW16.out.trans (hbW17.mono HBW16.out.size))
      have HLW17 : Hid (w2.heap.size ≤ W17.heap.size) := Lib.hid (Nat.le_trans HLW16.out hbW17.size)
      have R0D1_W17 := Lib.hid (R0D1_W16.out.keep hbW17)
      have Z0D1_W17 := Lib.hid (Z0D1_W16.out.keep hbW17)
      have ZAgW14_W17 := Lib.hid (ZAgW14_W16.out.keep hbW17)
      clear hbW17 HBW16 HLW16 R0D1_W16 Z0D1_W16 ZAgW14_W16
      simp only [Act.put, List.setIfInBounds_toArray, List.set_cons_zero, List.set_cons_succ]
      refine storeW_all (i := 6) (oi := { dst := none, op := Op.store 23 (Operand.tmp 4) (Operand.tmp 9), type := 0, pos := "ref.go:185", after := #[{ on := 5, ground := Ground.data }, { on := 4, ground := Ground.data }, { on := 4, ground := Ground.chain }, { on := 0, ground := Ground.phase }, { on := 1, ground := Ground.phase }, { on := 2, ground := Ground.phase }, { on := 3, ground := Ground.phase }, { on := 4, ground := Ground.phase }, { on := 5, ground := Ground.phase }], guard := none }) rfl (by kernel_rfl) (by rfl) 23 (.tmp 4) (.tmp 9) rfl (gW14) rfl (bcs (enc x0)).toArray rfl 23 _ ZAgW14_W17.out (by rw [List.size_toArray, bcs_enc_len]; exact size23) (by rw [List.size_toArray, bcs_enc_len]; rfl) (bcs_one _) rfl ?_
      intro W18 hhW18 hgW18 hzW18
      simp only [Act.put, List.setIfInBounds_toArray, List.set_cons_zero, List.set_cons_succ]
      have R0D1_W18 := Lib.hid (R0D1_W17.out.grown hgW18 (by have := HGgW14.out; have := HLTwheapsize.out; simp; omega))
      have Z0D1_W18 := Lib.hid (Z0D1_W17.out.grown hgW18 (by have := HGgW14.out; have := HLTwheapsizep1.out; simp; omega))
      have SgW14_W18 : Hid (NAt W18 (gW14) x0) := Lib.hid ⟨23, hhW18⟩
      have HBW18 : Hid (Below w.heap.size w W18) := Lib.hid (HBW17.out.grown hgW18 HBW17.out.size (fun r hr => by injection hr with hr; have := HGgW14.out; have := HB.out.size; omega))
      have HLW18 : Hid (w2.heap.size ≤ W18.heap.size) := Lib.hid (Nat.le_trans HLW17.out hgW18.size)
      clear hhW18 hgW18 hzW18 HBW17 HLW17 R0D1_W17 Z0D1_W17 ZAgW14_W17
      refine doneW (by kernel_rfl) ⟨rfl, ?_⟩ _
      exact ⟨gW14, R0D1_W18.out, Z0D1_W18.out, SgW14_W18.out, HGgW14.out, HBW18.out, rfl⟩
  rintro a' x3 ⟨g, h1, h2, h3, h4, h5, rfl⟩
  have R3 := Lib.hid h1
  have Z3 := Lib.hid h2
  have T3 := Lib.hid h3
  have HGN : Hid (w.heap.size + 1 < g) := by have := HLTwheapsizep1.out; exact Lib.hid (by omega)
  have B3 := Lib.hid h5
  clear h1 h2 h3 h4 h5 R Z HB HLTwheapsize HLTwheapsizep1
  go_wp2_with fail
  cases b1
  · refine region_wq (by kernel_rfl) (by kernel_rfl) ?_
    refine wq_load rfl (.tmp 4) rfl (g) x0 rfl T3.out ?_
    simp only [Act.put, List.setIfInBounds_toArray, List.set_cons_zero, List.set_cons_succ]
    refine wq_load rfl (.tmp 4) rfl (g) x0 rfl T3.out ?_
    simp only [Act.put, List.setIfInBounds_toArray, List.set_cons_zero, List.set_cons_succ]
    refine wq_call rfl 26 [.tmp 10, .tmp 11] #[23, 23] rfl [vN x0, vN x0] rfl (CG26 _) (vN m0) HM2.out ?_
    simp only [Act.put, List.setIfInBounds_toArray, List.set_cons_zero, List.set_cons_succ]
    refine wq_load rfl (.tmp 1) rfl (w.heap.size) a rfl R3.out ?_
    simp only [Act.put, List.setIfInBounds_toArray, List.set_cons_zero, List.set_cons_succ]
    refine wq_call rfl 34 [.tmp 12, .tmp 13] #[23, 23] rfl [vN m0, vN a] rfl (CG34 _) (.bool false) HB1.out ?_
    simp only [Act.put, List.setIfInBounds_toArray, List.set_cons_zero, List.set_cons_succ]
    refine wq_not rfl 4 (.tmp 14) rfl false rfl ?_
    rw [show (!false) = true from rfl]
    simp only [Act.put, List.setIfInBounds_toArray, List.set_cons_zero, List.set_cons_succ]
    refine wq_nil ?_
    intro q1 hb
    have Rq1 := Lib.hid (R3.out.keep hb)
    have Zq1 := Lib.hid (Z3.out.keep hb)
    have Tq1 := Lib.hid (T3.out.keep hb)
    have Bq1 : Hid (Below w.heap.size w q1) := Lib.hid (B3.out.trans (hb.mono B3.out.size))
    clear hb R3 Z3 T3 B3
    have HLTwheapsize : Hid (w.heap.size < q1.heap.size) := Rq1.out.lt
    have HLTwheapsizep1 : Hid (w.heap.size + 1 < q1.heap.size) := Zq1.out.lt
    have HLTg : Hid (g < q1.heap.size) := Tq1.out.lt
    go_wp2_with fail
    refine region_split (fun a' W => NAt W w.heap.size a ∧ ZAt W (w.heap.size + 1) ∧ NAt W g x1 ∧ Below w.heap.size w W ∧ a' = ⟨#[vN a, .pointer (some ⟨w.heap.size, 0, none⟩), .pointer (some ⟨w.heap.size + 1, 0, none⟩), .bool false, .pointer (some ⟨g, 0, none⟩), vN a, vN e1, vN r, vN a, vN x0, vN x0, vN x0, vN m0, vN a, .bool false, .bool true, vN x0, vN 2, vN e2, vN i, vN x1, undef, undef, undef, undef, undef, undef, undef, undef, undef, undef, undef, undef], []⟩) ?_ ?_
    · refine startW (fun j => j == 5) (q1.heap.size) (by kernel_rfl) ?_
      obtain ⟨D19, hD19⟩ : ∃ D, D = q1.drew := ⟨_, rfl⟩
      rw [← hD19]
      have HLD19 : Hid (q1.heap.size ≤ D19.heap.size) := Lib.hid (by rw [hD19]; exact Nat.le_refl _)
      have HBD19 : Hid (Below w.heap.size w D19) := Lib.hid (by rw [hD19]; exact below_drewN' Bq1.out 1)
      have R0D19 : Hid (NAt D19 (w.heap.size) a) := Lib.hid (by rw [hD19]; exact Rq1.out)
      have R1D19 : Hid (NAt D19 (g) x0) := Lib.hid (by rw [hD19]; exact Tq1.out)
      have Z0D19 : Hid (ZAt D19 (w.heap.size + 1)) := Lib.hid (by rw [hD19]; exact Zq1.out)
      clear hD19
      refine takeT (i := 0) (oi := { dst := some 16, op := Op.load 23 (Operand.tmp 4), type := 23, pos := "ref.go:187", after := #[], guard := none }) (vN x0) rfl (by kernel_rfl) (by kernel_rfl) (by kernel_rfl) (by kernel_rfl) (by kernel_rfl) (fun _ _ _ h => nomatch h.1) (by rfl) (fun w' hk => exec_load23 (.tmp 4) rfl (g) x0 rfl (R1D19.out.below hk HLTg.out)) ?_
      simp only [Act.put, List.setIfInBounds_toArray, List.set_cons_zero, List.set_cons_succ]
      refine callW (i := 1) (oi := { dst := some 17, op := Op.call { callee := Callee.value (Operand.func 18), args := #[Operand.const (Value.int IntKind.u64 2)], argTypes := #[24] }, type := 23, pos := "ref.go:187", after := #[], guard := none }) rfl (by kernel_rfl) (by rfl) (exec_callL 18 [.const (.int .u64 2)] #[24] rfl [.int .u64 2] rfl (CG18 _)) ((HOf.out D19).mono ?_)
      rintro eW20 W20 ⟨rfl, hbW20⟩
      refine ⟨_, rfl, fun _ => hbW20.mono HLD19.out, ?_⟩
      have HBW20 : Hid (Below w.heap.size w W20) := Lib.hid (HBD19.out.trans (hbW20.mono HBD19.out.size))
      have HLW20 : Hid (q1.heap.size ≤ W20.heap.size) := Lib.hid (Nat.le_trans HLD19.out hbW20.size)
      have R0D19_W20 := Lib.hid (R0D19.out.keep hbW20)
      have R1D19_W20 := Lib.hid (R1D19.out.keep hbW20)
      have Z0D19_W20 := Lib.hid (Z0D19.out.keep hbW20)
      clear hbW20 HBD19 HLD19 R0D19 R1D19 Z0D19
      simp only [Act.put, List.setIfInBounds_toArray, List.set_cons_zero, List.set_cons_succ]
      refine callW (i := 2) (oi := { dst := some 18, op := Op.call { callee := Callee.value (Operand.func 64), args := #[Operand.const (Value.int IntKind.i64 1), Operand.const (Value.int IntKind.i64 2)], argTypes := #[3, 3] }, type := 23, pos := "ref.go:187", after := #[{ on := 1, ground := Ground.chain }], guard := none }) rfl (by kernel_rfl) (by rfl) (exec_callL 64 [.const (.int .i64 1), .const (.int .i64 2)] #[3, 3] rfl [.int .i64 1, .int .i64 2] rfl (CG64 _)) ((HS2.out W20).mono ?_)
      rintro eW21 W21 ⟨rfl, hbW21⟩
      refine ⟨_, rfl, fun _ => hbW21.mono HLW20.out, ?_⟩
      have HBW21 : Hid (Below w.heap.size w W21) := Lib.hid (HBW20.out.trans (hbW21.mono HBW20.out.size))
      have HLW21 : Hid (q1.heap.size ≤ W21.heap.size) := Lib.hid (Nat.le_trans HLW20.out hbW21.size)
      have R0D19_W21 := Lib.hid (R0D19_W20.out.keep hbW21)
      have R1D19_W21 := Lib.hid (R1D19_W20.out.keep hbW21)
      have Z0D19_W21 := Lib.hid (Z0D19_W20.out.keep hbW21)
      clear hbW21 HBW20 HLW20 R0D19_W20 R1D19_W20 Z0D19_W20
      simp only [Act.put, List.setIfInBounds_toArray, List.set_cons_zero, List.set_cons_succ]
      refine callW (i := 3) (oi := { dst := some 19, op := Op.call { callee := Callee.value (Operand.func 28), args := #[Operand.tmp 17, Operand.tmp 18], argTypes := #[23, 23] }, type := 23, pos := "ref.go:187", after := #[{ on := 1, ground := Ground.data }, { on := 2, ground := Ground.data }, { on := 2, ground := Ground.chain }], guard := none }) rfl (by kernel_rfl) (by rfl) (exec_callL 28 [.tmp 17, .tmp 18] #[23, 23] rfl [vN 2, vN e2] rfl (CG28 _)) ((HP2.out W21).mono ?_)
      rintro eW22 W22 ⟨rfl, hbW22⟩
      refine ⟨_, rfl, fun _ => hbW22.mono HLW21.out, ?_⟩
      have HBW22 : Hid (Below w.heap.size w W22) := Lib.hid (HBW21.out.trans (hbW22.mono HBW21.out.size))
      have HLW22 : Hid (q1.heap.size ≤ W22.heap.size) := Lib.hid (Nat.le_trans HLW21.out hbW22.size)
      have R0D19_W22 := Lib.hid (R0D19_W21.out.keep hbW22)
      have R1D19_W22 := Lib.hid (R1D19_W21.out.keep hbW22)
      have Z0D19_W22 := Lib.hid (Z0D19_W21.out.keep hbW22)
      clear hbW22 HBW21 HLW21 R0D19_W21 R1D19_W21 Z0D19_W21
      simp only [Act.put, List.setIfInBounds_toArray, List.set_cons_zero, List.set_cons_succ]
      refine callW (i := 4) (oi := { dst := some 20, op := Op.call { callee := Callee.value (Operand.func 26), args := #[Operand.tmp 16, Operand.tmp 19], argTypes := #[23, 23] }, type := 23, pos := "ref.go:187", after := #[{ on := 0, ground := Ground.data }, { on := 3, ground := Ground.data }, { on := 3, ground := Ground.chain }], guard := none }) rfl (by kernel_rfl) (by rfl) (exec_callL 26 [.tmp 16, .tmp 19] #[23, 23] rfl [vN x0, vN i] rfl (CG26 _)) ((HM3.out W22).mono ?_)
      rintro eW23 W23 ⟨rfl, hbW23⟩
      refine ⟨_, rfl, fun _ => hbW23.mono HLW22.out, ?_⟩
      have HBW23 : Hid (Below w.heap.size w W23) := Lib.hid (HBW22.out.trans (hbW23.mono HBW22.out.size))
      have HLW23 : Hid (q1.heap.size ≤ W23.heap.size) := Lib.hid (Nat.le_trans HLW22.out hbW23.size)
      have R0D19_W23 := Lib.hid (R0D19_W22.out.keep hbW23)
      have R1D19_W23 := Lib.hid (R1D19_W22.out.keep hbW23)
      have Z0D19_W23 := Lib.hid (Z0D19_W22.out.keep hbW23)
      clear hbW23 HBW22 HLW22 R0D19_W22 R1D19_W22 Z0D19_W22
      simp only [Act.put, List.setIfInBounds_toArray, List.set_cons_zero, List.set_cons_succ]
      obtain ⟨tgW24, htgW24⟩ := R1D19_W23.out
      refine storeW_all (i := 5) (oi := { dst := none, op := Op.store 23 (Operand.tmp 4) (Operand.tmp 20), type := 0, pos := "ref.go:187", after := #[{ on := 4, ground := Ground.data }, { on := 4, ground := Ground.chain }, { on := 0, ground := Ground.phase }, { on := 1, ground := Ground.phase }, { on := 2, ground := Ground.phase }, { on := 3, ground := Ground.phase }, { on := 4, ground := Ground.phase }], guard := none }) rfl (by kernel_rfl) (by rfl) 23 (.tmp 4) (.tmp 20) rfl g rfl (bcs (enc x1)).toArray rfl tgW24 _ htgW24 (by rw [List.size_toArray, bcs_enc_len]; exact size23) (by rw [List.size_toArray, List.size_toArray, bcs_enc_len, bcs_enc_len]) (bcs_one _) rfl ?_
      intro W24 hhW24 hgW24 hzW24
      simp only [Act.put, List.setIfInBounds_toArray, List.set_cons_zero, List.set_cons_succ]
      have RAW24 := Lib.hid (R0D19_W23.out.grown hgW24 (by have := HGN.out; simp; omega))
      have ZAW24 := Lib.hid (Z0D19_W23.out.grown hgW24 (by have := HGN.out; simp; omega))
      have TAW24 : Hid (NAt W24 g x1) := Lib.hid ⟨tgW24, hhW24⟩
      have HBW24 : Hid (Below w.heap.size w W24) := Lib.hid (HBW23.out.grown hgW24 HBW23.out.size (fun r hr => by have := HGN.out; injection hr with hr; omega))
      refine doneW (by kernel_rfl) ⟨rfl, ?_⟩ _
      exact ⟨RAW24.out, ZAW24.out, TAW24.out, HBW24.out, rfl⟩
    rintro a' x5 ⟨h1, h2, h3, h5, rfl⟩
    have R5 := Lib.hid h1
    have Z5 := Lib.hid h2
    have T5 := Lib.hid h3
    have B5 := Lib.hid h5
    clear h1 h2 h3 h5 Rq1 Zq1 Tq1 Bq1 HLTwheapsize HLTwheapsizep1 HLTg
    go_wp2_with fail
    cases b2
    · refine region_wq (by kernel_rfl) (by kernel_rfl) ?_
      refine wq_load rfl (.tmp 4) rfl (g) x1 rfl T5.out ?_
      simp only [Act.put, List.setIfInBounds_toArray, List.set_cons_zero, List.set_cons_succ]
      refine wq_load rfl (.tmp 4) rfl (g) x1 rfl T5.out ?_
      simp only [Act.put, List.setIfInBounds_toArray, List.set_cons_zero, List.set_cons_succ]
      refine wq_call rfl 26 [.tmp 21, .tmp 22] #[23, 23] rfl [vN x1, vN x1] rfl (CG26 _) (vN m1) HM4.out ?_
      simp only [Act.put, List.setIfInBounds_toArray, List.set_cons_zero, List.set_cons_succ]
      refine wq_load rfl (.tmp 1) rfl (w.heap.size) a rfl R5.out ?_
      simp only [Act.put, List.setIfInBounds_toArray, List.set_cons_zero, List.set_cons_succ]
      refine wq_call rfl 34 [.tmp 23, .tmp 24] #[23, 23] rfl [vN m1, vN a] rfl (CG34 _) (.bool false) HB2.out ?_
      simp only [Act.put, List.setIfInBounds_toArray, List.set_cons_zero, List.set_cons_succ]
      refine wq_not rfl 4 (.tmp 25) rfl false rfl ?_
      rw [show (!false) = true from rfl]
      simp only [Act.put, List.setIfInBounds_toArray, List.set_cons_zero, List.set_cons_succ]
      refine wq_nil ?_
      intro q2 hb
      have Rq2 := Lib.hid (R5.out.keep hb)
      have Zq2 := Lib.hid (Z5.out.keep hb)
      have Tq2 := Lib.hid (T5.out.keep hb)
      have Bq2 : Hid (Below w.heap.size w q2) := Lib.hid (B5.out.trans (hb.mono B5.out.size))
      clear hb R5 Z5 T5 B5
      have hx : (xx, ok) = (0, false) := HX.out
      obtain ⟨rfl, rfl⟩ := Prod.mk.inj hx
      clear hx HX
      go_wp2_with (first | ((with_reducible show wpList _ _ _ (⟨_, .build 23 _, _, _, _, _⟩ :: _) _ _); go_must (refine wpList_exec rfl (vN 0) (exec_build0 rfl) ?_)) | ((with_reducible show wpList _ _ _ (⟨none, .store 23 (.tmp 2) (.tmp 27), _, _, _, _⟩ :: _) _ _); go_must (refine wpList_store_all rfl 23 (.tmp 2) (.tmp 27) rfl (w.heap.size + 1) rfl (bcs (enc 0)).toArray rfl 23 _ Zq2.out (by rw [List.size_toArray, bcs_enc_len]; exact size23) (by rw [List.size_toArray, bcs_enc_len]; rfl) (bcs_one _) ?_; intro y1 hh hg hz; have HH := Lib.hid hh; have HBel : Hid (Below w.heap.size w y1) := Bq2.out.grown hg Bq2.out.size (fun r hr => by injection hr with hr; omega); clear hh hg hz)))
      exact bodyPost_ret (results_cell2 rfl _ _ (w.heap.size + 1) 23 (bcs (enc 0)).toArray (0, 0) _ rfl HH.out under23 rfl (by rw [List.size_toArray, bcs_enc_len]; exact size23)) rfl ⟨rfl, HBel.out⟩
    · refine region_wq (by kernel_rfl) (by kernel_rfl) ?_
      refine wq_load rfl (.tmp 4) rfl (g) x1 rfl T5.out ?_
      simp only [Act.put, List.setIfInBounds_toArray, List.set_cons_zero, List.set_cons_succ]
      refine wq_load rfl (.tmp 4) rfl (g) x1 rfl T5.out ?_
      simp only [Act.put, List.setIfInBounds_toArray, List.set_cons_zero, List.set_cons_succ]
      refine wq_call rfl 26 [.tmp 21, .tmp 22] #[23, 23] rfl [vN x1, vN x1] rfl (CG26 _) (vN m1) HM4.out ?_
      simp only [Act.put, List.setIfInBounds_toArray, List.set_cons_zero, List.set_cons_succ]
      refine wq_load rfl (.tmp 1) rfl (w.heap.size) a rfl R5.out ?_
      simp only [Act.put, List.setIfInBounds_toArray, List.set_cons_zero, List.set_cons_succ]
      refine wq_call rfl 34 [.tmp 23, .tmp 24] #[23, 23] rfl [vN m1, vN a] rfl (CG34 _) (.bool true) HB2.out ?_
      simp only [Act.put, List.setIfInBounds_toArray, List.set_cons_zero, List.set_cons_succ]
      refine wq_not rfl 4 (.tmp 25) rfl true rfl ?_
      rw [show (!true) = false from rfl]
      simp only [Act.put, List.setIfInBounds_toArray, List.set_cons_zero, List.set_cons_succ]
      refine wq_nil ?_
      intro q3 hb
      have Rq3 := Lib.hid (R5.out.keep hb)
      have Zq3 := Lib.hid (Z5.out.keep hb)
      have Tq3 := Lib.hid (T5.out.keep hb)
      have Bq3 : Hid (Below w.heap.size w q3) := Lib.hid (B5.out.trans (hb.mono B5.out.size))
      clear hb R5 Z5 T5 B5
      go_wp2_with (first | ((with_reducible show wpList _ _ _ (⟨_, .load 23 (.tmp 4), _, _, _, _⟩ :: _) _ _); go_must (refine wpList_exec rfl (vN x1) (exec_load23 (.tmp 4) rfl (g) x1 rfl Tq3.out) ?_)) | fail)
      refine (HO1.out _).mono ?_
      rintro ex x8 ⟨rfl, hb⟩
      have Z8 := Lib.hid (Zq3.out.keep hb)
      have T8 := Lib.hid (Tq3.out.keep hb)
      have B8 : Hid (Below w.heap.size w x8) := Lib.hid (Bq3.out.trans (hb.mono Bq3.out.size))
      clear hb Zq3 Tq3 Rq3 Bq3
      cases o1
      · have hx : (xx, ok) = (x1, true) := HX.out
        obtain ⟨rfl, rfl⟩ := Prod.mk.inj hx
        clear hx HX
        go_wp2_with (first | ((with_reducible show wpList _ _ _ (⟨_, .load 23 (.tmp 4), _, _, _, _⟩ :: _) _ _); go_must (refine wpList_exec rfl (vN xx) (exec_load23 (.tmp 4) rfl (g) xx rfl T8.out) ?_)) | ((with_reducible show wpList _ _ _ (⟨none, .store 23 (.tmp 2) (.tmp 32), _, _, _, _⟩ :: _) _ _); go_must (refine wpList_store_all rfl 23 (.tmp 2) (.tmp 32) rfl (w.heap.size + 1) rfl (bcs (enc xx)).toArray rfl 23 _ Z8.out (by rw [List.size_toArray, bcs_enc_len]; exact size23) (by rw [List.size_toArray, bcs_enc_len]; rfl) (bcs_one _) ?_; intro y1 hh hg hz; have HH := Lib.hid hh; have HBel : Hid (Below w.heap.size w y1) := B8.out.grown hg B8.out.size (fun r hr => by injection hr with hr; omega); clear hh hg hz)) | fail)
        exact bodyPost_ret (results_cell2 rfl _ _ (w.heap.size + 1) 23 (bcs (enc xx)).toArray (0, 0) _ rfl HH.out under23 rfl (by rw [List.size_toArray, bcs_enc_len]; exact size23)) rfl ⟨rfl, HBel.out⟩
      · have hx : (xx, ok) = (n1, true) := HX.out
        obtain ⟨rfl, rfl⟩ := Prod.mk.inj hx
        clear hx HX
        go_wp2_with (first | ((with_reducible show wpList _ _ _ (⟨_, .load 23 (.tmp 4), _, _, _, _⟩ :: _) _ _); go_must (refine wpList_exec rfl (vN x1) (exec_load23 (.tmp 4) rfl (g) x1 rfl T8.out) ?_)) | fail)
        refine (HN1.out _).mono ?_
        rintro ex x9 ⟨rfl, hb⟩
        have Z9 := Lib.hid (Z8.out.keep hb)
        obtain ⟨tr, htr⟩ := T8.out.keep hb
        have HTR := Lib.hid htr
        have B9 : Hid (Below w.heap.size w x9) := Lib.hid (B8.out.trans (hb.mono B8.out.size))
        clear hb Z8 T8 B8 htr
        go_wp2_with (first | ((with_reducible show wpList _ _ _ (⟨none, .store 23 (.tmp 4) (.tmp 31), _, _, _, _⟩ :: _) _ _); go_must (refine wpList_store_all rfl 23 (.tmp 4) (.tmp 31) rfl g rfl (bcs (enc xx)).toArray rfl tr _ HTR.out (by rw [List.size_toArray, bcs_enc_len]; exact size23) (by rw [List.size_toArray, List.size_toArray, bcs_enc_len, bcs_enc_len]) (bcs_one _) ?_; intro x2 hh hg hz; have TT : Hid (NAt x2 g xx) := ⟨tr, hh⟩; have ZZ : Hid (ZAt x2 (w.heap.size + 1)) := Z9.out.grown hg (by have := HGN.out; simp; omega); have BB : Hid (Below w.heap.size w x2) := B9.out.grown hg B9.out.size (fun r hr => by have := HGN.out; injection hr with hr; omega); clear hh hg hz Z9 B9 HTR)) | ((with_reducible show wpList _ _ _ (⟨_, .load 23 (.tmp 4), _, _, _, _⟩ :: _) _ _); go_must (refine wpList_exec rfl (vN xx) (exec_load23 (.tmp 4) rfl (g) xx rfl TT.out) ?_)) | ((with_reducible show wpList _ _ _ (⟨none, .store 23 (.tmp 2) (.tmp 32), _, _, _, _⟩ :: _) _ _); go_must (refine wpList_store_all rfl 23 (.tmp 2) (.tmp 32) rfl (w.heap.size + 1) rfl (bcs (enc xx)).toArray rfl 23 _ ZZ.out (by rw [List.size_toArray, bcs_enc_len]; exact size23) (by rw [List.size_toArray, bcs_enc_len]; rfl) (bcs_one _) ?_; intro y1 hh hg hz; have HH := Lib.hid hh; have HBel : Hid (Below w.heap.size w y1) := BB.out.grown hg BB.out.size (fun r hr => by injection hr with hr; omega); clear hh hg hz)) | fail)
        exact bodyPost_ret (results_cell2 rfl _ _ (w.heap.size + 1) 23 (bcs (enc xx)).toArray (0, 0) _ rfl HH.out under23 rfl (by rw [List.size_toArray, bcs_enc_len]; exact size23)) rfl ⟨rfl, HBel.out⟩
  · refine region_wq (by kernel_rfl) (by kernel_rfl) ?_
    refine wq_load rfl (.tmp 4) rfl (g) x0 rfl T3.out ?_
    simp only [Act.put, List.setIfInBounds_toArray, List.set_cons_zero, List.set_cons_succ]
    refine wq_load rfl (.tmp 4) rfl (g) x0 rfl T3.out ?_
    simp only [Act.put, List.setIfInBounds_toArray, List.set_cons_zero, List.set_cons_succ]
    refine wq_call rfl 26 [.tmp 10, .tmp 11] #[23, 23] rfl [vN x0, vN x0] rfl (CG26 _) (vN m0) HM2.out ?_
    simp only [Act.put, List.setIfInBounds_toArray, List.set_cons_zero, List.set_cons_succ]
    refine wq_load rfl (.tmp 1) rfl (w.heap.size) a rfl R3.out ?_
    simp only [Act.put, List.setIfInBounds_toArray, List.set_cons_zero, List.set_cons_succ]
    refine wq_call rfl 34 [.tmp 12, .tmp 13] #[23, 23] rfl [vN m0, vN a] rfl (CG34 _) (.bool true) HB1.out ?_
    simp only [Act.put, List.setIfInBounds_toArray, List.set_cons_zero, List.set_cons_succ]
    refine wq_not rfl 4 (.tmp 14) rfl true rfl ?_
    rw [show (!true) = false from rfl]
    simp only [Act.put, List.setIfInBounds_toArray, List.set_cons_zero, List.set_cons_succ]
    refine wq_nil ?_
    intro q4 hb
    have Rq4 := Lib.hid (R3.out.keep hb)
    have Zq4 := Lib.hid (Z3.out.keep hb)
    have Tq4 := Lib.hid (T3.out.keep hb)
    have Bq4 : Hid (Below w.heap.size w q4) := Lib.hid (B3.out.trans (hb.mono B3.out.size))
    clear hb R3 Z3 T3 B3
    go_wp2_with fail
    refine region_wq (by kernel_rfl) (by kernel_rfl) ?_
    refine wq_load rfl (.tmp 4) rfl (g) x0 rfl Tq4.out ?_
    simp only [Act.put, List.setIfInBounds_toArray, List.set_cons_zero, List.set_cons_succ]
    refine wq_load rfl (.tmp 4) rfl (g) x0 rfl Tq4.out ?_
    simp only [Act.put, List.setIfInBounds_toArray, List.set_cons_zero, List.set_cons_succ]
    refine wq_call rfl 26 [.tmp 21, .tmp 22] #[23, 23] rfl [vN x0, vN x0] rfl (CG26 _) (vN m0) HM2.out ?_
    simp only [Act.put, List.setIfInBounds_toArray, List.set_cons_zero, List.set_cons_succ]
    refine wq_load rfl (.tmp 1) rfl (w.heap.size) a rfl Rq4.out ?_
    simp only [Act.put, List.setIfInBounds_toArray, List.set_cons_zero, List.set_cons_succ]
    refine wq_call rfl 34 [.tmp 23, .tmp 24] #[23, 23] rfl [vN m0, vN a] rfl (CG34 _) (.bool true) HB1.out ?_
    simp only [Act.put, List.setIfInBounds_toArray, List.set_cons_zero, List.set_cons_succ]
    refine wq_not rfl 4 (.tmp 25) rfl true rfl ?_
    rw [show (!true) = false from rfl]
    simp only [Act.put, List.setIfInBounds_toArray, List.set_cons_zero, List.set_cons_succ]
    refine wq_nil ?_
    intro q5 hb
    have Rq5 := Lib.hid (Rq4.out.keep hb)
    have Zq5 := Lib.hid (Zq4.out.keep hb)
    have Tq5 := Lib.hid (Tq4.out.keep hb)
    have Bq5 : Hid (Below w.heap.size w q5) := Lib.hid (Bq4.out.trans (hb.mono Bq4.out.size))
    clear hb Rq4 Zq4 Tq4 Bq4
    go_wp2_with (first | ((with_reducible show wpList _ _ _ (⟨_, .load 23 (.tmp 4), _, _, _, _⟩ :: _) _ _); go_must (refine wpList_exec rfl (vN x0) (exec_load23 (.tmp 4) rfl (g) x0 rfl Tq5.out) ?_)) | fail)
    refine (HO0.out _).mono ?_
    rintro ex x8 ⟨rfl, hb⟩
    have Z8 := Lib.hid (Zq5.out.keep hb)
    have T8 := Lib.hid (Tq5.out.keep hb)
    have B8 : Hid (Below w.heap.size w x8) := Lib.hid (Bq5.out.trans (hb.mono Bq5.out.size))
    clear hb Zq5 Tq5 Rq5 Bq5
    cases o0
    · have hx : (xx, ok) = (x0, true) := HX.out
      obtain ⟨rfl, rfl⟩ := Prod.mk.inj hx
      clear hx HX
      go_wp2_with (first | ((with_reducible show wpList _ _ _ (⟨_, .load 23 (.tmp 4), _, _, _, _⟩ :: _) _ _); go_must (refine wpList_exec rfl (vN xx) (exec_load23 (.tmp 4) rfl (g) xx rfl T8.out) ?_)) | ((with_reducible show wpList _ _ _ (⟨none, .store 23 (.tmp 2) (.tmp 32), _, _, _, _⟩ :: _) _ _); go_must (refine wpList_store_all rfl 23 (.tmp 2) (.tmp 32) rfl (w.heap.size + 1) rfl (bcs (enc xx)).toArray rfl 23 _ Z8.out (by rw [List.size_toArray, bcs_enc_len]; exact size23) (by rw [List.size_toArray, bcs_enc_len]; rfl) (bcs_one _) ?_; intro y1 hh hg hz; have HH := Lib.hid hh; have HBel : Hid (Below w.heap.size w y1) := B8.out.grown hg B8.out.size (fun r hr => by injection hr with hr; omega); clear hh hg hz)) | fail)
      exact bodyPost_ret (results_cell2 rfl _ _ (w.heap.size + 1) 23 (bcs (enc xx)).toArray (0, 0) _ rfl HH.out under23 rfl (by rw [List.size_toArray, bcs_enc_len]; exact size23)) rfl ⟨rfl, HBel.out⟩
    · have hx : (xx, ok) = (n0, true) := HX.out
      obtain ⟨rfl, rfl⟩ := Prod.mk.inj hx
      clear hx HX
      go_wp2_with (first | ((with_reducible show wpList _ _ _ (⟨_, .load 23 (.tmp 4), _, _, _, _⟩ :: _) _ _); go_must (refine wpList_exec rfl (vN x0) (exec_load23 (.tmp 4) rfl (g) x0 rfl T8.out) ?_)) | fail)
      refine (HN0.out _).mono ?_
      rintro ex x9 ⟨rfl, hb⟩
      have Z9 := Lib.hid (Z8.out.keep hb)
      obtain ⟨tr, htr⟩ := T8.out.keep hb
      have HTR := Lib.hid htr
      have B9 : Hid (Below w.heap.size w x9) := Lib.hid (B8.out.trans (hb.mono B8.out.size))
      clear hb Z8 T8 B8 htr
      go_wp2_with (first | ((with_reducible show wpList _ _ _ (⟨none, .store 23 (.tmp 4) (.tmp 31), _, _, _, _⟩ :: _) _ _); go_must (refine wpList_store_all rfl 23 (.tmp 4) (.tmp 31) rfl g rfl (bcs (enc xx)).toArray rfl tr _ HTR.out (by rw [List.size_toArray, bcs_enc_len]; exact size23) (by rw [List.size_toArray, List.size_toArray, bcs_enc_len, bcs_enc_len]) (bcs_one _) ?_; intro x2 hh hg hz; have TT : Hid (NAt x2 g xx) := ⟨tr, hh⟩; have ZZ : Hid (ZAt x2 (w.heap.size + 1)) := Z9.out.grown hg (by have := HGN.out; simp; omega); have BB : Hid (Below w.heap.size w x2) := B9.out.grown hg B9.out.size (fun r hr => by have := HGN.out; injection hr with hr; omega); clear hh hg hz Z9 B9 HTR)) | ((with_reducible show wpList _ _ _ (⟨_, .load 23 (.tmp 4), _, _, _, _⟩ :: _) _ _); go_must (refine wpList_exec rfl (vN xx) (exec_load23 (.tmp 4) rfl (g) xx rfl TT.out) ?_)) | ((with_reducible show wpList _ _ _ (⟨none, .store 23 (.tmp 2) (.tmp 32), _, _, _, _⟩ :: _) _ _); go_must (refine wpList_store_all rfl 23 (.tmp 2) (.tmp 32) rfl (w.heap.size + 1) rfl (bcs (enc xx)).toArray rfl 23 _ ZZ.out (by rw [List.size_toArray, bcs_enc_len]; exact size23) (by rw [List.size_toArray, bcs_enc_len]; rfl) (bcs_one _) ?_; intro y1 hh hg hz; have HH := Lib.hid hh; have HBel : Hid (Below w.heap.size w y1) := BB.out.grown hg BB.out.size (fun r hr => by injection hr with hr; omega); clear hh hg hz)) | fail)
      exact bodyPost_ret (results_cell2 rfl _ _ (w.heap.size + 1) 23 (bcs (enc xx)).toArray (0, 0) _ rfl HH.out under23 rfl (by rw [List.size_toArray, bcs_enc_len]; exact size23)) rfl ⟨rfl, HBel.out⟩
end Go.Proofs.Ytgdimnbdnepbgaa
/- The reference's Root in numbers. No statement is proved here. -/
namespace Go.Proofs.Ytgdimnbdnepbgaa
open Go.RowKit
set_option linter.unusedVariables false
set_option maxRecDepth 40000
set_option linter.unusedSimpArgs false

theorem rRoot_any (k : Nat) (hk : PP = 8 * k + 5) (a : Nat) (ha : a < TT) (w : World) : Calls Try.prog 12 #[vN a] w (Gives (.tuple #[vN (rt PP k a).1, .bool (rt PP k a).2]) w) := by
  have hr : a ^ k % PP * a % PP = (a % PP) ^ (k + 1) % PP := by
    rw [← Nat.pow_mod, Nat.pow_succ, Nat.mod_mul_mod]
  have hi : 2 ^ (2 * k + 1) % PP * (2 ^ (2 * k + 1) % PP) % PP = PP - 1 := by
    rw [← Nat.mul_mod, ← Nat.pow_add, show 2 * k + 1 + (2 * k + 1) = 4 * k + 2 from by omega, htwo k hk]
  have hS1 := shifted_eighth k hk
  have hS2 := shifted_quarter k hk
  have hP1 : ∀ w, Calls Try.prog 28 #[vN a, vN k] w (Gives (vN (a ^ k % PP)) w) := fun w => rPow_any a k ha (by have := PP_lt; omega) w
  have hP2 : ∀ w, Calls Try.prog 28 #[vN 2, vN (2 * k + 1)] w (Gives (vN (2 ^ (2 * k + 1) % PP)) w) := fun w => rPow_any 2 (2 * k + 1) (by unfold TT; omega) (by have := PP_lt; omega) w
  have hM1 : ∀ w, Calls Try.prog 26 #[vN (a ^ k % PP), vN a] w (Gives (vN ((a % PP) ^ (k + 1) % PP)) w) := fun w => by
    rw [← hr]
    exact rMul_any _ _ (modT _) ha w
  have hi2 : 2 ^ (2 * k + 1) % PP < PP := modP _
  have hr2 : (a % PP) ^ (k + 1) % PP < PP := modP _
  unfold rt
  generalize (a % PP) ^ (k + 1) % PP = x at *
  generalize 2 ^ (2 * k + 1) % PP = i at *
  generalize a ^ k % PP = r at *
  have hm := minus_sq PP (x * x % PP) (a % PP) i (by unfold PP; omega) hi x rfl (modP a)
  have hx := Nat.lt_trans hr2 PP_lt
  have hE : ∀ y, y < PP → evn PP y = (if decide (y % PP % 2 = 1) then (PP - y % PP) % PP else y) := fun y hy => by
    unfold evn
    rw [Nat.mod_eq_of_lt hy]
    simp
  have hmm : x * x % PP % PP = x * x % PP := Nat.mod_mod _ _
  have hmm1 : x * i % PP * (x * i % PP) % PP % PP = x * i % PP * (x * i % PP) % PP := Nat.mod_mod _ _
  have key := fun (xx : Nat) (ok : Bool) (h : (xx, ok) = (if decide (x * x % PP % PP = a % PP) then (if decide (x % PP % 2 = 1) then (PP - x % PP) % PP else x, true) else if decide (x * i % PP * (x * i % PP) % PP % PP = a % PP) then (if decide (x * i % PP % PP % 2 = 1) then (PP - x * i % PP % PP) % PP else x * i % PP, true) else (0, false))) =>
    rRoot_core a k r x (x * x % PP) (2 * k + 1) i (x * i % PP) (x * i % PP * (x * i % PP) % PP) ((PP - x % PP) % PP) ((PP - x * i % PP % PP) % PP) xx _ _ _ _ ok w (Lib.hid hS1) (Lib.hid hP1) (Lib.hid hM1) (Lib.hid fun w => rMul_any x x hx hx w) (Lib.hid fun w => rSame_any _ a (modT _) ha w)
      (Lib.hid fun w => rOf_core 2 (by omega) w) (Lib.hid hS2) (Lib.hid hP2) (Lib.hid fun w => rMul_any x i hx (Nat.lt_trans hi2 PP_lt) w) (Lib.hid fun w => rMul_any _ _ (modT _) (modT _) w) (Lib.hid fun w => rSame_any _ a (modT _) ha w)
      (Lib.hid fun w => rOdd_any x hx w) (Lib.hid fun w => rNeg_any x hx w) (Lib.hid fun w => rOdd_any _ (modT _) w) (Lib.hid fun w => rNeg_any _ (modT _) w) (Lib.hid h)
  refine key _ _ ?_
  rw [hmm, hmm1, ← hE x hr2, ← hE (x * i % PP) (modP _)]
  by_cases h1 : x * x % PP = a % PP
  · simp [h1]
  · by_cases h2 : x * x % PP = (PP - a % PP) % PP
    · have h3 := hm.2 h2
      simp only [h1, h2, h3, decide_true, decide_false, if_true, if_false]
      simp
    · have h3 : ¬ x * i % PP * (x * i % PP) % PP = a % PP := fun h => h2 (hm.1 h)
      simp only [h1, h2, h3, decide_true, decide_false, if_true, if_false]
      simp
end Go.Proofs.Ytgdimnbdnepbgaa
/- The reference's root, Base, Bytes and Read as numbers. No statement is proved here. -/
namespace Go.Proofs.Ytgdimnbdnepbgaa
open Go.RowKit
set_option linter.unusedVariables false
set_option maxRecDepth 40000
set_option linter.unusedSimpArgs false

theorem rRoot_raw (k : Nat) (hk : PP = 8 * k + 5) (y : Nat) (hy : y < TT) (w : World) : Calls Try.prog 83 #[vN y] w (Gives (.tuple #[vN (rtY k (fO y)).1, .bool (rtY k (fO y)).2]) w) := by
  have ha := hMulR y y hy hy
  have hz := EC.den_y (fO y)
  have hd := d_is
  have e : cF * (fO y * fO y - 1) * fInv (cF - eF * (fO y * fO y)) = (fO y * fO y - 1) * fInv (dF * (fO y * fO y) + 1) := by
    have h1 : cF - eF * (fO y * fO y) = (dF * (fO y * fO y) + 1) * cF := by grind
    have h2 : cF * fInv ((dF * (fO y * fO y) + 1) * cF) = fInv (dF * (fO y * fO y) + 1) := EC.inv_mul hz c_ne
    rw [h1, ← h2]
    generalize fInv ((dF * (fO y * fO y) + 1) * cF) = v
    grind
  unfold rtY
  rw [← e]
  generalize fO y * fO y = a at *
  have hs : ∀ w, Calls Try.prog 22 #[vN a.val, vN 1] w (Gives (vN (a - 1).val) w) := fun w => by
    have h := hSub a 1 w
    rw [v1] at h
    exact h
  have hR := rRoot_any k hk (cF * (a - 1) * fInv (cF - eF * a)).val (fT _)
  generalize rt PP k (cF * (a - 1) * fInv (cF - eF * a)).val = r at *
  exact root_core y a.val cF.val (a - 1).val (cF * (a - 1)).val eF.val (eF * a).val (cF - eF * a).val (fInv (cF - eF * a)).val _ r.1 r.2 w (Lib.hid ha) (Lib.hid fun w => rOf_core 121666 (by omega) w) (Lib.hid hOne) (Lib.hid hs) (Lib.hid (hMul _ _)) (Lib.hid fun w => rOf_core 121665 (by omega) w) (Lib.hid (hMul _ _)) (Lib.hid (hSub _ _)) (Lib.hid (hInv _)) (Lib.hid (hMul _ _)) (Lib.hid hR)
def f4 : Fin PP := ⟨4, by unfold PP; omega⟩
def f5 : Fin PP := ⟨5, by unfold PP; omega⟩
theorem b45 : bY * f5 = f4 := by decide +kernel
theorem f5_ne : f5 ≠ 0 := fun h => by
  have := congrArg Fin.val h
  have h0 : (0 : Fin PP).val = 0 := rfl
  rw [h0] at this
  exact absurd this (by decide)
theorem bX_even : bX.val % 2 = 0 := by decide +kernel
theorem rBase_any (w : World) : Calls Try.prog 57 #[] w (Gives (vPt bP) w) := by
  obtain ⟨k, hk⟩ := k_ex
  have h5 := fInv_mul f5_ne
  have e : f4 * fInv f5 = bY := by rw [← b45]; generalize fInv f5 = v at *; grind
  have hM := hMul f4 (fInv f5)
  rw [e] at hM
  have hR := rRoot_raw k hk bY.val (fT _)
  have hlt := bX.isLt
  rw [fO_of, rtY_on k hk bX bY base_on, show evn PP bX.val = bX.val by unfold evn; rw [if_neg (by have := bX_even; omega)]] at hR
  exact rBase_core 4 5 (fInv f5).val bY.val bX.val true w (Lib.hid fun w => rOf_core 4 (by omega) w) (Lib.hid fun w => rOf_core 5 (by omega) w) (Lib.hid (hInv f5)) (Lib.hid hM) (Lib.hid hR)
theorem rBytesP (p : EC.Pt) (w : World) : Calls Try.prog 47 #[vPt p] w (Gives (.tuple #[vN (bts p.1.1 p.1.2), .int .i64 0]) w) := by
  have ht := top_set p.1.2.val (Nat.lt_trans p.1.2.isLt PH)
  have hO := rOdd_any p.1.1.val (fT _)
  rw [Nat.mod_eq_of_lt p.1.1.isLt] at hO
  unfold bts
  by_cases h : p.1.1.val % 2 = 1
  · rw [decide_eq_true h] at hO
    rw [if_pos h]
    refine rBytes_true _ _ _ _ w (Lib.hid (rCheckP p)) (Lib.hid hO) (Lib.hid rfl) (Lib.hid ht.1) (Lib.hid ?_)
    rw [← ht.2, ← bcs_put]
    unfold bc
    rw [of_byte, Nat.mod_eq_of_lt (by have := ht.1; omega)]
    rfl
  · rw [decide_eq_false h] at hO
    rw [if_neg h]
    exact rBytes_false _ _ 0 0 w (Lib.hid (rCheckP p)) (Lib.hid hO)
theorem set_top (n y t : Nat) (ht : ((enc n).getD 31 0).toNat = t) (htb : t < 256) (h : (enc n).set 31 (UInt8.ofNat (t % 128)) = enc y) : (bcs (enc n)).toArray.setIfInBounds 31 (.int .u8 ((t : Int) % 128)) = (bcs (enc y)).toArray := by
  rw [← h, ← bcs_put]
  unfold bc
  rw [of_byte, Nat.mod_eq_of_lt (by omega)]
  rfl
/-- Both read the same. -/
theorem both_read (n : Nat) (hn : n < TT) : ∃ rx ry : Nat, ∃ re : Int, rx < TT ∧ ry < TT ∧ (∀ w, Calls Try.prog 35 #[vN n] w (Gives (.tuple #[vR [rx, ry], .int .i64 re]) w)) ∧ (∀ w, Calls Try.prog 48 #[vN n] w (Gives (.tuple #[vR [rx, ry], .int .i64 re]) w)) := by
  obtain ⟨k, hk⟩ := k_ex
  obtain ⟨y, odd, hy, rfl⟩ : ∃ (y : Nat) (odd : Bool), y < HH ∧ n = if odd then y + HH else y := by
    rw [HT2] at hn
    by_cases h : n < HH
    · exact ⟨n, false, h, rfl⟩
    · exact ⟨n - HH, true, by omega, by simp; omega⟩
  have hT : y < TT := by rw [HT2]; omega
  have h0T : 0 < TT := by unfold TT; omega
  have hlt := rt_lt prP hk ((fO y * fO y - 1) * fInv (dF * (fO y * fO y) + 1)).val
  have hxT : (rtY k (fO y)).1 < TT := Nat.lt_trans hlt PP_lt
  have hL := read_low k hk y hy odd
  have hC := rCanon_any y hT
  have hR := rRoot_raw k hk y hT
  have hN := rNeg_any (rtY k (fO y)).1 hxT
  have hE := eqN (rtY k (fO y)).1 0 hxT h0T
  obtain ⟨s1, s2⟩ := top_set y hy
  obtain ⟨c1, c2⟩ := top_clear y hy
  have b1 := UInt8.toNat_lt ((enc (y + HH)).getD 31 0)
  have hmT : (PP - (rtY k (fO y)).1 % PP) % PP < TT := Nat.lt_trans (Nat.mod_lt _ (by unfold PP; omega)) PP_lt
  generalize hx : (rtY k (fO y)).1 = x at *
  generalize hok : (rtY k (fO y)).2 = ok at *
  generalize (PP - x % PP) % PP = m at *
  generalize hc : decide (y = y % PP) = c at *
  generalize hz : decide (x = 0) = z at *
  clear hlt hx hok hc hz
  cases odd
  · have se := set_top y y ((enc y).getD 31 0).toNat rfl (by omega) (by rw [Nat.mod_eq_of_lt s1]; exact top_same y)
    have sb : ((enc y).getD 31 0).toNat < 256 := by omega
    cases c
    · exact ⟨0, 0, 4, h0T, h0T, fun w => hL w 0 0 4 ⟨rfl, rfl, rfl⟩, fun w => rRead_ce y _ y x m w (Lib.hid hC) (Lib.hid rfl) (Lib.hid sb) (Lib.hid se) (Lib.hid s1)⟩
    · cases ok
      · exact ⟨0, 0, 4, h0T, h0T, fun w => hL w 0 0 4 ⟨rfl, rfl, rfl⟩, fun w => rRead_re y _ y x m w (Lib.hid hC) (Lib.hid hR) (Lib.hid rfl) (Lib.hid sb) (Lib.hid se) (Lib.hid s1)⟩
      · exact ⟨x, y, 0, hxT, hT, fun w => hL w x y 0 ⟨rfl, rfl, rfl⟩, fun w => rRead_e y _ y x m w (Lib.hid hC) (Lib.hid hR) (Lib.hid rfl) (Lib.hid sb) (Lib.hid se) (Lib.hid s1)⟩
  · have se := set_top (y + HH) y ((enc (y + HH)).getD 31 0).toNat rfl b1 (by rw [show ((enc (y + HH)).getD 31 0).toNat % 128 = ((enc (y + HH)).getD 31 0).toNat - 128 by omega]; exact c2)
    cases c
    · exact ⟨0, 0, 4, h0T, h0T, fun w => hL w 0 0 4 ⟨rfl, rfl, rfl⟩, fun w => rRead_co (y + HH) _ y x m w (Lib.hid hC) (Lib.hid rfl) (Lib.hid b1) (Lib.hid se) (Lib.hid c1)⟩
    · cases ok
      · exact ⟨0, 0, 4, h0T, h0T, fun w => hL w 0 0 4 ⟨rfl, rfl, rfl⟩, fun w => rRead_ro (y + HH) _ y x m w (Lib.hid hC) (Lib.hid hR) (Lib.hid rfl) (Lib.hid b1) (Lib.hid se) (Lib.hid c1)⟩
      · cases z
        · exact ⟨m, y, 0, hmT, hT, fun w => hL w m y 0 ⟨rfl, rfl, rfl⟩, fun w => rRead_o (y + HH) _ y x m w (Lib.hid hC) (Lib.hid hR) (Lib.hid hN) (Lib.hid rfl) (Lib.hid b1) (Lib.hid se) (Lib.hid c1) (Lib.hid hE)⟩
        · exact ⟨0, 0, 4, h0T, h0T, fun w => hL w 0 0 4 ⟨rfl, rfl, rfl⟩, fun w => rRead_z (y + HH) _ y x m w (Lib.hid hC) (Lib.hid hR) (Lib.hid rfl) (Lib.hid b1) (Lib.hid se) (Lib.hid c1) (Lib.hid hE)⟩
end Go.Proofs.Ytgdimnbdnepbgaa
