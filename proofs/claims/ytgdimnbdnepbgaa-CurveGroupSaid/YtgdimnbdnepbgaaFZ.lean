/- The field's Root. No statement is proved here. -/
import Derived.Test.YtgdimnbdnepbgaaFY
namespace Go.Proofs.Ytgdimnbdnepbgaa
open Go.RowKit
set_option linter.unusedVariables false
set_option maxRecDepth 40000


/-- Two results: the first in a cell, the second in a slot. -/
theorem results_cell2 {P : Program} {fn : Func} {p : Tmp} {ty : TypeId} {q : Tmp} (h : fn.results = #[.cell p ty, .tmp q]) (tmps : Array Value) (w : World) (g : Nat) (t : TypeId) (cs : Array Value) (fr : Nat × Nat) (d : TypeDesc)
    (hp : tmps.getD p undef = .pointer (some ⟨g, 0, none⟩)) (hg : w.heap[g]? = some (.cells cs t fr)) (hu : P.underlying ty = some d) (hd : (match d with | .struct _ | .array _ _ => true | _ => false) = true) (hi : (P.info? ty).map (·.size) = some cs.size) :
    (results fn tmps).run P w = .ok (.tuple #[.agg cs, tmps.getD q undef]) w := by
  have hp' : tmps[p]?.getD undef = .pointer (some ⟨g, 0, none⟩) := by simpa using hp
  simp [results, h, hp', asAddr, run_loadVar_row w g t ty cs fr d hg hu hd hi]


set_option maxHeartbeats 4000000 in
theorem Root_core (a c e r m n i u v1 v2 x : Nat) (b1 b2 ok : Bool) (w : World)
    (H11 : Hid (∀ w, Calls Try.prog 13 #[vN a] w (Gives (vN c) w)))
    (HO : Hid (∀ w, Calls Try.prog 61 #[.int .u8 254, .int .u8 15] w (Gives (vN e) w)))
    (HP : Hid (∀ w, Calls Try.prog 27 #[vN c, vN e] w (Gives (vN r) w)))
    (HM : Hid (∀ w, Calls Try.prog 25 #[vN r, vN r] w (Gives (vN m) w)))
    (HE1 : Hid (∀ w, (Op.equalIn 10000 23 (vN m) (vN c)).run Try.prog w = .ok b1 w))
    (HEv : Hid (∀ w, Calls Try.prog 62 #[vN r] w (Gives (vN v1) w)))
    (HN : Hid (∀ w, Calls Try.prog 23 #[vN c] w (Gives (vN n) w)))
    (HE2 : Hid (∀ w, (Op.equalIn 10000 23 (vN m) (vN n)).run Try.prog w = .ok b2 w))
    (H36 : Hid (∀ w, Calls Try.prog 63 #[] w (Gives (vN i) w)))
    (HM2 : Hid (∀ w, Calls Try.prog 25 #[vN r, vN i] w (Gives (vN u) w)))
    (HEv2 : Hid (∀ w, Calls Try.prog 62 #[vN u] w (Gives (vN v2) w)))
    (HX : Hid ((x, ok) = (if b1 then (v1, true) else if b2 then (v2, true) else (0, false)))) :
    Calls Try.prog 11 #[vN a] w (Gives (.tuple #[vN x, .bool ok]) w) := by
  go_enter Try.func11, Try.ntmps11
  go_wp2_with (first | ((with_reducible show wpList _ _ _ (⟨some 1, .box 23 (.tmp 0), _, _, _, _⟩ :: _) _ _); go_must (refine wpList_box_row rfl 23 (.tmp 0) rfl (bcs (enc a)).toArray rfl ?_; intro w1 h1 z1 g1; have H1 := Lib.hid h1; have Z1 := Lib.hid z1; have G1 := Lib.hid g1; clear h1 z1 g1)) | ((with_reducible show wpList _ _ _ (⟨some 2, .alloc 23, _, _, _, _⟩ :: _) _ _); go_must (refine wpList_alloc_row rfl 23 rfl (.agg (zbs 32)) zero23 ?_; intro w2 h1 z1 g1; have H2 := Lib.hid h1; have Z2 := Lib.hid z1; have G2 := Lib.hid g1; clear h1 z1 g1; have R : Hid (NAt w2 w.heap.size a) := NAt.grown ⟨23, H1.out⟩ G2.out (by simp))) | ((with_reducible show wpList _ _ _ (⟨_, .load 23 (.tmp 1), _, _, _, _⟩ :: _) _ _); go_must (refine wpList_exec rfl (vN a) (exec_load23 (.tmp 1) rfl (w.heap.size) a rfl R.out) ?_)))
  have HB0 : Hid (Below w.heap.size w w2) := (below_of_grownBy G1.out).trans ((below_of_grownBy G2.out).mono (by have := Z1.out; omega))
  have Z0 : Hid (ZAt w2 (w.heap.size + 1)) := by
    have h := H2.out
    rw [Z1.out] at h
    exact h
  rw [show w1.heap.size = w.heap.size + 1 from Z1.out]
  clear H1 Z1 G1 H2 Z2 G2
  refine (H11.out _).mono ?_
  rintro ex x1 ⟨rfl, hb⟩
  have R1 := Lib.hid (R.out.keep hb)
  have Z1 := Lib.hid (Z0.out.keep hb)
  have HB1 := Lib.hid (HB0.out.trans (hb.mono HB0.out.size))
  clear hb R Z0 HB0 H11
  obtain ⟨tr, htr⟩ := R1.out
  have HTR := Lib.hid htr
  clear htr
  go_wp2_with ((with_reducible show wpList _ _ _ (⟨none, .store 23 (.tmp 1) (.tmp 6), _, _, _, _⟩ :: _) _ _); go_must (refine wpList_store_all rfl 23 (.tmp 1) (.tmp 6) rfl (w.heap.size) rfl (bcs (enc c)).toArray rfl tr _ HTR.out (by rw [List.size_toArray, bcs_enc_len]; exact size23) (by rw [List.size_toArray, List.size_toArray, bcs_enc_len, bcs_enc_len]) (bcs_one _) ?_; intro x2 hh hg hz; have R : Hid (NAt x2 w.heap.size c) := ⟨tr, hh⟩; have Z : Hid (ZAt x2 (w.heap.size + 1)) := Z1.out.grown hg (by simp); have HB : Hid (Below w.heap.size w x2) := HB1.out.grown hg HB1.out.size (fun r hr => by injection hr with hr; omega); clear hh hg hz R1 Z1 HB1 HTR))
  have HLTwheapsize : Hid (w.heap.size < x2.heap.size) := R.out.lt
  have HLTwheapsizep1 : Hid (w.heap.size + 1 < x2.heap.size) := Z.out.lt
  refine region_split (fun a' W => ∃ g, NAt W w.heap.size c ∧ ZAt W (w.heap.size + 1) ∧ NAt W g r ∧ x2.heap.size ≤ g ∧ Below w.heap.size w W ∧ a' = ⟨#[vN a, .pointer (some ⟨w.heap.size, 0, none⟩), .pointer (some ⟨w.heap.size + 1, 0, none⟩), .bool false, .pointer (some ⟨g, 0, none⟩), vN a, vN c, vN c, vN e, vN r, undef, undef, undef, undef, undef, undef, undef, undef, undef, undef, undef, undef, undef, undef, undef, undef, undef], []⟩) ?_ ?_
  · refine startW (fun j => j == 4) (x2.heap.size) (by kernel_rfl) ?_
    obtain ⟨D1, hD1⟩ : ∃ D, D = x2.drew := ⟨_, rfl⟩
    rw [← hD1]
    have HLD1 : Hid (x2.heap.size ≤ D1.heap.size) := Lib.hid (by rw [hD1]; exact Nat.le_refl _)
    have HBD1 : Hid (Below w.heap.size w D1) := Lib.hid (by rw [hD1]; exact below_drewN' HB.out 1)
    have R0D1 : Hid (NAt D1 (w.heap.size) c) := Lib.hid (by rw [hD1]; exact R.out)
    have Z0D1 : Hid (ZAt D1 (w.heap.size + 1)) := Lib.hid (by rw [hD1]; exact Z.out)
    clear hD1
    refine takeT (i := 0) (oi := { dst := some 7, op := Op.load 23 (Operand.tmp 1), type := 23, pos := "field.go:73", after := #[], guard := none }) (vN c) rfl (by kernel_rfl) (by kernel_rfl) (by kernel_rfl) (by kernel_rfl) (by kernel_rfl) (fun _ _ _ h => nomatch h.1) (by rfl) (fun w' hk => exec_load23 (.tmp 1) rfl (w.heap.size) c rfl (R0D1.out.below hk HLTwheapsize.out)) ?_
    simp only [Act.put, List.setIfInBounds_toArray, List.set_cons_zero, List.set_cons_succ]
    refine eachW [1, 3] (by kernel_rfl) (by simp) ?_
    intro k hk
    simp only [List.mem_cons, List.not_mem_nil, or_false] at hk
    rcases hk with rfl | rfl
    · refine wpOp_call (i := 1) (oi := { dst := some 8, op := Op.call { callee := Callee.value (Operand.func 61), args := #[Operand.const (Value.int IntKind.u8 254), Operand.const (Value.int IntKind.u8 15)], argTypes := #[5, 5] }, type := 23, pos := "field.go:73", after := #[], guard := none }) rfl (by rfl) (exec_callL 61 [.const (.int .u8 254), .const (.int .u8 15)] #[5, 5] rfl [.int .u8 254, .int .u8 15] rfl (CF34 _)) ((HO.out D1).mono ?_)
      rintro eW2 W2 ⟨rfl, hbW2⟩
      refine ⟨_, rfl, fun _ => hbW2.mono HLD1.out, ?_⟩
      have HBW2 : Hid (Below w.heap.size w W2) := Lib.hid (HBD1.out.trans (hbW2.mono HBD1.out.size))
      have HLW2 : Hid (x2.heap.size ≤ W2.heap.size) := Lib.hid (Nat.le_trans HLD1.out hbW2.size)
      have R0D1_W2 := Lib.hid (R0D1.out.keep hbW2)
      have Z0D1_W2 := Lib.hid (Z0D1.out.keep hbW2)
      clear hbW2 HBD1 HLD1 R0D1 Z0D1
      simp only [Act.put, List.setIfInBounds_toArray, List.set_cons_zero, List.set_cons_succ]
      refine eachW [2, 3] (by kernel_rfl) (by simp) ?_
      intro k hk
      simp only [List.mem_cons, List.not_mem_nil, or_false] at hk
      rcases hk with rfl | rfl
      · refine wpOp_call (i := 2) (oi := { dst := some 9, op := Op.call { callee := Callee.value (Operand.func 27), args := #[Operand.tmp 7, Operand.tmp 8], argTypes := #[23, 23] }, type := 23, pos := "field.go:73", after := #[{ on := 0, ground := Ground.data }, { on := 1, ground := Ground.data }, { on := 1, ground := Ground.chain }], guard := none }) rfl (by rfl) (exec_callL 27 [.tmp 7, .tmp 8] #[23, 23] rfl [vN c, vN e] rfl (CF16 _)) ((HP.out W2).mono ?_)
        rintro eW3 W3 ⟨rfl, hbW3⟩
        refine ⟨_, rfl, fun _ => hbW3.mono HLW2.out, ?_⟩
        have HBW3 : Hid (Below w.heap.size w W3) := Lib.hid (HBW2.out.trans (hbW3.mono HBW2.out.size))
        have HLW3 : Hid (x2.heap.size ≤ W3.heap.size) := Lib.hid (Nat.le_trans HLW2.out hbW3.size)
        have R0D1_W3 := Lib.hid (R0D1_W2.out.keep hbW3)
        have Z0D1_W3 := Lib.hid (Z0D1_W2.out.keep hbW3)
        clear hbW3 HBW2 HLW2 R0D1_W2 Z0D1_W2
        simp only [Act.put, List.setIfInBounds_toArray, List.set_cons_zero, List.set_cons_succ]
        refine opW _ _ (i := 3) (oi := { dst := some 4, op := Op.alloc 23, type := 0, pos := "field.go:73", after := #[], guard := none }) rfl (by kernel_rfl) (by rfl) (exec_alloc 23 rfl (.agg (zbs 32)) zero23 W3) (fun _ => (below_alloc W3 _).mono HLW3.out) ?_
        obtain ⟨W4, hW4, hbW4, hzW4⟩ := alloc_zero W3
        rw [← hW4]
        obtain ⟨gW4, hgW4⟩ : ∃ g, g = W3.heap.size := ⟨_, rfl⟩
        rw [← hgW4] at hzW4 ⊢
        have HGgW4 : Hid (x2.heap.size ≤ gW4) := Lib.hid (by rw [hgW4]; exact HLW3.out)
        have HBW4 : Hid (Below w.heap.size w W4) := Lib.hid (HBW3.out.trans (hbW4.mono HBW3.out.size))
        have HLW4 : Hid (x2.heap.size ≤ W4.heap.size) := Lib.hid (Nat.le_trans HLW3.out hbW4.size)
        have R0D1_W4 := Lib.hid (R0D1_W3.out.keep hbW4)
        have Z0D1_W4 := Lib.hid (Z0D1_W3.out.keep hbW4)
        have ZAgW4_W4 := Lib.hid hzW4
        clear hbW4 HBW3 HLW3 R0D1_W3 Z0D1_W3 hzW4 hgW4 hW4
        simp only [Act.put, List.setIfInBounds_toArray, List.set_cons_zero, List.set_cons_succ]
        refine storeW_all (i := 4) (oi := { dst := none, op := Op.store 23 (Operand.tmp 4) (Operand.tmp 9), type := 0, pos := "field.go:73", after := #[{ on := 3, ground := Ground.data }, { on := 2, ground := Ground.data }, { on := 2, ground := Ground.chain }, { on := 0, ground := Ground.phase }, { on := 1, ground := Ground.phase }, { on := 2, ground := Ground.phase }, { on := 3, ground := Ground.phase }], guard := none }) rfl (by kernel_rfl) (by rfl) 23 (.tmp 4) (.tmp 9) rfl (gW4) rfl (bcs (enc r)).toArray rfl 23 _ ZAgW4_W4.out (by rw [List.size_toArray, bcs_enc_len]; exact size23) (by rw [List.size_toArray, bcs_enc_len]; rfl) (bcs_one _) rfl ?_
        intro W5 hhW5 hgW5 hzW5
        simp only [Act.put, List.setIfInBounds_toArray, List.set_cons_zero, List.set_cons_succ]
        have R0D1_W5 := Lib.hid (R0D1_W4.out.grown hgW5 (by have := HGgW4.out; have := HLTwheapsize.out; simp; omega))
        have Z0D1_W5 := Lib.hid (Z0D1_W4.out.grown hgW5 (by have := HGgW4.out; have := HLTwheapsizep1.out; simp; omega))
        have SgW4_W5 : Hid (NAt W5 (gW4) r) := Lib.hid ⟨23, hhW5⟩
        have HBW5 : Hid (Below w.heap.size w W5) := Lib.hid (HBW4.out.grown hgW5 HBW4.out.size (fun r hr => by injection hr with hr; have := HGgW4.out; have := HB.out.size; omega))
        have HLW5 : Hid (x2.heap.size ≤ W5.heap.size) := Lib.hid (Nat.le_trans HLW4.out hgW5.size)
        clear hhW5 hgW5 hzW5 HBW4 HLW4 R0D1_W4 Z0D1_W4 ZAgW4_W4
        refine doneW (by kernel_rfl) ⟨rfl, ?_⟩ _
        exact ⟨gW4, R0D1_W5.out, Z0D1_W5.out, SgW4_W5.out, HGgW4.out, HBW5.out, rfl⟩
      · refine wpOp_value (i := 3) (oi := { dst := some 4, op := Op.alloc 23, type := 0, pos := "field.go:73", after := #[], guard := none }) rfl (by rfl) (exec_alloc 23 rfl (.agg (zbs 32)) zero23 W2) ⟨fun _ => (below_alloc W2 _).mono HLW2.out, ?_⟩
        obtain ⟨W6, hW6, hbW6, hzW6⟩ := alloc_zero W2
        rw [← hW6]
        obtain ⟨gW6, hgW6⟩ : ∃ g, g = W2.heap.size := ⟨_, rfl⟩
        rw [← hgW6] at hzW6 ⊢
        have HGgW6 : Hid (x2.heap.size ≤ gW6) := Lib.hid (by rw [hgW6]; exact HLW2.out)
        have HBW6 : Hid (Below w.heap.size w W6) := Lib.hid (HBW2.out.trans (hbW6.mono HBW2.out.size))
        have HLW6 : Hid (x2.heap.size ≤ W6.heap.size) := Lib.hid (Nat.le_trans HLW2.out hbW6.size)
        have R0D1_W6 := Lib.hid (R0D1_W2.out.keep hbW6)
        have Z0D1_W6 := Lib.hid (Z0D1_W2.out.keep hbW6)
        have ZAgW6_W6 := Lib.hid hzW6
        clear hbW6 HBW2 HLW2 R0D1_W2 Z0D1_W2 hzW6 hgW6 hW6
        simp only [Act.put, List.setIfInBounds_toArray, List.set_cons_zero, List.set_cons_succ]
        refine callW (i := 2) (oi := { dst := some 9, op := Op.call { callee := Callee.value (Operand.func 27), args := #[Operand.tmp 7, Operand.tmp 8], argTypes := #[23, 23] }, type := 23, pos := "field.go:73", after := #[{ on := 0, ground := Ground.data }, { on := 1, ground := Ground.data }, { on := 1, ground := Ground.chain }], guard := none }) rfl (by kernel_rfl) (by rfl) (exec_callL 27 [.tmp 7, .tmp 8] #[23, 23] rfl [vN c, vN e] rfl (CF16 _)) ((HP.out W6).mono ?_)
        rintro eW7 W7 ⟨rfl, hbW7⟩
        refine ⟨_, rfl, fun _ => hbW7.mono HLW6.out, ?_⟩
        have HBW7 : Hid (Below w.heap.size w W7) := Lib.hid (HBW6.out.trans (hbW7.mono HBW6.out.size))
        have HLW7 : Hid (x2.heap.size ≤ W7.heap.size) := Lib.hid (Nat.le_trans HLW6.out hbW7.size)
        have R0D1_W7 := Lib.hid (R0D1_W6.out.keep hbW7)
        have Z0D1_W7 := Lib.hid (Z0D1_W6.out.keep hbW7)
        have ZAgW6_W7 := Lib.hid (ZAgW6_W6.out.keep hbW7)
        clear hbW7 HBW6 HLW6 R0D1_W6 Z0D1_W6 ZAgW6_W6
        simp only [Act.put, List.setIfInBounds_toArray, List.set_cons_zero, List.set_cons_succ]
        refine storeW_all (i := 4) (oi := { dst := none, op := Op.store 23 (Operand.tmp 4) (Operand.tmp 9), type := 0, pos := "field.go:73", after := #[{ on := 3, ground := Ground.data }, { on := 2, ground := Ground.data }, { on := 2, ground := Ground.chain }, { on := 0, ground := Ground.phase }, { on := 1, ground := Ground.phase }, { on := 2, ground := Ground.phase }, { on := 3, ground := Ground.phase }], guard := none }) rfl (by kernel_rfl) (by rfl) 23 (.tmp 4) (.tmp 9) rfl (gW6) rfl (bcs (enc r)).toArray rfl 23 _ ZAgW6_W7.out (by rw [List.size_toArray, bcs_enc_len]; exact size23) (by rw [List.size_toArray, bcs_enc_len]; rfl) (bcs_one _) rfl ?_
        intro W8 hhW8 hgW8 hzW8
        simp only [Act.put, List.setIfInBounds_toArray, List.set_cons_zero, List.set_cons_succ]
        have R0D1_W8 := Lib.hid (R0D1_W7.out.grown hgW8 (by have := HGgW6.out; have := HLTwheapsize.out; simp; omega))
        have Z0D1_W8 := Lib.hid (Z0D1_W7.out.grown hgW8 (by have := HGgW6.out; have := HLTwheapsizep1.out; simp; omega))
        have SgW6_W8 : Hid (NAt W8 (gW6) r) := Lib.hid ⟨23, hhW8⟩
        have HBW8 : Hid (Below w.heap.size w W8) := Lib.hid (HBW7.out.grown hgW8 HBW7.out.size (fun r hr => by injection hr with hr; have := HGgW6.out; have := HB.out.size; omega))
        have HLW8 : Hid (x2.heap.size ≤ W8.heap.size) := Lib.hid (Nat.le_trans HLW7.out hgW8.size)
        clear hhW8 hgW8 hzW8 HBW7 HLW7 R0D1_W7 Z0D1_W7 ZAgW6_W7
        refine doneW (by kernel_rfl) ⟨rfl, ?_⟩ _
        exact ⟨gW6, R0D1_W8.out, Z0D1_W8.out, SgW6_W8.out, HGgW6.out, HBW8.out, rfl⟩
    · refine wpOp_value (i := 3) (oi := { dst := some 4, op := Op.alloc 23, type := 0, pos := "field.go:73", after := #[], guard := none }) rfl (by rfl) (exec_alloc 23 rfl (.agg (zbs 32)) zero23 D1) ⟨fun _ => (below_alloc D1 _).mono HLD1.out, ?_⟩
      obtain ⟨W9, hW9, hbW9, hzW9⟩ := alloc_zero D1
      rw [← hW9]
      obtain ⟨gW9, hgW9⟩ : ∃ g, g = D1.heap.size := ⟨_, rfl⟩
      rw [← hgW9] at hzW9 ⊢
      have HGgW9 : Hid (x2.heap.size ≤ gW9) := Lib.hid (by rw [hgW9]; exact HLD1.out)
      have HBW9 : Hid (Below w.heap.size w W9) := Lib.hid (HBD1.out.trans (hbW9.mono HBD1.out.size))
      have HLW9 : Hid (x2.heap.size ≤ W9.heap.size) := Lib.hid (Nat.le_trans HLD1.out hbW9.size)
      have R0D1_W9 := Lib.hid (R0D1.out.keep hbW9)
      have Z0D1_W9 := Lib.hid (Z0D1.out.keep hbW9)
      have ZAgW9_W9 := Lib.hid hzW9
      clear hbW9 HBD1 HLD1 R0D1 Z0D1 hzW9 hgW9 hW9
      simp only [Act.put, List.setIfInBounds_toArray, List.set_cons_zero, List.set_cons_succ]
      refine callW (i := 1) (oi := { dst := some 8, op := Op.call { callee := Callee.value (Operand.func 61), args := #[Operand.const (Value.int IntKind.u8 254), Operand.const (Value.int IntKind.u8 15)], argTypes := #[5, 5] }, type := 23, pos := "field.go:73", after := #[], guard := none }) rfl (by kernel_rfl) (by rfl) (exec_callL 61 [.const (.int .u8 254), .const (.int .u8 15)] #[5, 5] rfl [.int .u8 254, .int .u8 15] rfl (CF34 _)) ((HO.out W9).mono ?_)
      rintro eW10 W10 ⟨rfl, hbW10⟩
      refine ⟨_, rfl, fun _ => hbW10.mono HLW9.out, ?_⟩
      have HBW10 : Hid (Below w.heap.size w W10) := Lib.hid (HBW9.out.trans (hbW10.mono HBW9.out.size))
      have HLW10 : Hid (x2.heap.size ≤ W10.heap.size) := Lib.hid (Nat.le_trans HLW9.out hbW10.size)
      have R0D1_W10 := Lib.hid (R0D1_W9.out.keep hbW10)
      have Z0D1_W10 := Lib.hid (Z0D1_W9.out.keep hbW10)
      have ZAgW9_W10 := Lib.hid (ZAgW9_W9.out.keep hbW10)
      clear hbW10 HBW9 HLW9 R0D1_W9 Z0D1_W9 ZAgW9_W9
      simp only [Act.put, List.setIfInBounds_toArray, List.set_cons_zero, List.set_cons_succ]
      refine callW (i := 2) (oi := { dst := some 9, op := Op.call { callee := Callee.value (Operand.func 27), args := #[Operand.tmp 7, Operand.tmp 8], argTypes := #[23, 23] }, type := 23, pos := "field.go:73", after := #[{ on := 0, ground := Ground.data }, { on := 1, ground := Ground.data }, { on := 1, ground := Ground.chain }], guard := none }) rfl (by kernel_rfl) (by rfl) (exec_callL 27 [.tmp 7, .tmp 8] #[23, 23] rfl [vN c, vN e] rfl (CF16 _)) ((HP.out W10).mono ?_)
      rintro eW11 W11 ⟨rfl, hbW11⟩
      refine ⟨_, rfl, fun _ => hbW11.mono HLW10.out, ?_⟩
      have HBW11 : Hid (Below w.heap.size w W11) := Lib.hid (HBW10.out.trans (hbW11.mono HBW10.out.size))
      have HLW11 : Hid (x2.heap.size ≤ W11.heap.size) := Lib.hid (Nat.le_trans HLW10.out hbW11.size)
      have R0D1_W11 := Lib.hid (R0D1_W10.out.keep hbW11)
      have Z0D1_W11 := Lib.hid (Z0D1_W10.out.keep hbW11)
      have ZAgW9_W11 := Lib.hid (ZAgW9_W10.out.keep hbW11)
      clear hbW11 HBW10 HLW10 R0D1_W10 Z0D1_W10 ZAgW9_W10
      simp only [Act.put, List.setIfInBounds_toArray, List.set_cons_zero, List.set_cons_succ]
      refine storeW_all (i := 4) (oi := { dst := none, op := Op.store 23 (Operand.tmp 4) (Operand.tmp 9), type := 0, pos := "field.go:73", after := #[{ on := 3, ground := Ground.data }, { on := 2, ground := Ground.data }, { on := 2, ground := Ground.chain }, { on := 0, ground := Ground.phase }, { on := 1, ground := Ground.phase }, { on := 2, ground := Ground.phase }, { on := 3, ground := Ground.phase }], guard := none }) rfl (by kernel_rfl) (by rfl) 23 (.tmp 4) (.tmp 9) rfl (gW9) rfl (bcs (enc r)).toArray rfl 23 _ ZAgW9_W11.out (by rw [List.size_toArray, bcs_enc_len]; exact size23) (by rw [List.size_toArray, bcs_enc_len]; rfl) (bcs_one _) rfl ?_
      intro W12 hhW12 hgW12 hzW12
      simp only [Act.put, List.setIfInBounds_toArray, List.set_cons_zero, List.set_cons_succ]
      have R0D1_W12 := Lib.hid (R0D1_W11.out.grown hgW12 (by have := HGgW9.out; have := HLTwheapsize.out; simp; omega))
      have Z0D1_W12 := Lib.hid (Z0D1_W11.out.grown hgW12 (by have := HGgW9.out; have := HLTwheapsizep1.out; simp; omega))
      have SgW9_W12 : Hid (NAt W12 (gW9) r) := Lib.hid ⟨23, hhW12⟩
      have HBW12 : Hid (Below w.heap.size w W12) := Lib.hid (HBW11.out.grown hgW12 HBW11.out.size (fun r hr => by injection hr with hr; have := HGgW9.out; have := HB.out.size; omega))
      have HLW12 : Hid (x2.heap.size ≤ W12.heap.size) := Lib.hid (Nat.le_trans HLW11.out hgW12.size)
      clear hhW12 hgW12 hzW12 HBW11 HLW11 R0D1_W11 Z0D1_W11 ZAgW9_W11
      refine doneW (by kernel_rfl) ⟨rfl, ?_⟩ _
      exact ⟨gW9, R0D1_W12.out, Z0D1_W12.out, SgW9_W12.out, HGgW9.out, HBW12.out, rfl⟩
  rintro a' x3 ⟨g, h1, h2, h3, h4, h5, rfl⟩
  have R3 := Lib.hid h1
  have Z3 := Lib.hid h2
  have T3 := Lib.hid h3
  have HGN : Hid (w.heap.size + 1 < g) := by have := HLTwheapsizep1.out; exact Lib.hid (by omega)
  have HB3 := Lib.hid h5
  clear h1 h2 h3 h4 h5 R Z HB HLTwheapsize HLTwheapsizep1 HO HP
  go_wp2_with (first | ((with_reducible show wpList _ _ _ (⟨_, .load 23 (.tmp 4), _, _, _, _⟩ :: _) _ _); go_must (refine wpList_exec rfl (vN r) (exec_load23 (.tmp 4) rfl (g) r rfl T3.out) ?_)))
  refine (HM.out _).mono ?_
  rintro ex x4 ⟨rfl, hb⟩
  have R4 := Lib.hid (R3.out.keep hb)
  have Z4 := Lib.hid (Z3.out.keep hb)
  have T4 := Lib.hid (T3.out.keep hb)
  have HB4 := Lib.hid (HB3.out.trans (hb.mono HB3.out.size))
  clear hb R3 Z3 T3 HB3 HM
  cases b1
  · cases b2
    · have hx : (x, ok) = (0, false) := HX.out
      obtain ⟨rfl, rfl⟩ := Prod.mk.inj hx
      clear hx HX
      go_wp2_with (first | ((with_reducible show wpList _ _ _ (⟨_, .load 23 (.tmp 1), _, _, _, _⟩ :: _) _ _); go_must (refine wpList_exec rfl (vN c) (exec_load23 (.tmp 1) rfl (w.heap.size) c rfl R4.out) ?_)) | ((with_reducible show wpList _ _ _ (⟨_, .binOp .eql 23 (.tmp 12) (.tmp 14) 23, _, _, _, _⟩ :: _) _ _); go_must (refine wpList_exec rfl (.bool false) (exec_eq23 (.tmp 12) (.tmp 14) rfl rfl rfl (HE1.out _)) ?_)))
      refine (HN.out _).mono ?_
      rintro ex x5 ⟨rfl, hb⟩
      have Z5 := Lib.hid (Z4.out.keep hb)
      have HB5 := Lib.hid (HB4.out.trans (hb.mono HB4.out.size))
      clear hb R4 Z4 T4 HB4 HN HE1
      go_wp2_with (first | ((with_reducible show wpList _ _ _ (⟨_, .binOp .eql 23 (.tmp 12) (.tmp 20) 23, _, _, _, _⟩ :: _) _ _); go_must (refine wpList_exec rfl (.bool false) (exec_eq23 (.tmp 12) (.tmp 20) rfl rfl rfl (HE2.out _)) ?_)) | ((with_reducible show wpList _ _ _ (⟨_, .build 23 _, _, _, _, _⟩ :: _) _ _); go_must (refine wpList_exec rfl (vN 0) (exec_build0 rfl) ?_)) | ((with_reducible show wpList _ _ _ (⟨none, .store 23 (.tmp 2) (.tmp 26), _, _, _, _⟩ :: _) _ _); go_must (refine wpList_store_all rfl 23 (.tmp 2) (.tmp 26) rfl (w.heap.size + 1) rfl (bcs (enc 0)).toArray rfl 23 _ Z5.out (by rw [List.size_toArray, bcs_enc_len]; exact size23) (by rw [List.size_toArray, bcs_enc_len]; rfl) (bcs_one _) ?_; intro y1 hh hg hz; have HH := Lib.hid hh; have HBel : Hid (Below w.heap.size w y1) := HB5.out.grown hg HB5.out.size (fun r hr => by injection hr with hr; omega); clear hh hg hz)))
      exact bodyPost_ret (results_cell2 rfl _ _ (w.heap.size + 1) 23 (bcs (enc 0)).toArray (0, 0) _ rfl HH.out under23 rfl (by rw [List.size_toArray, bcs_enc_len]; exact size23)) rfl ⟨rfl, HBel.out⟩
    · have hx : (x, ok) = (v2, true) := HX.out
      obtain ⟨rfl, rfl⟩ := Prod.mk.inj hx
      clear hx HX
      go_wp2_with (first | ((with_reducible show wpList _ _ _ (⟨_, .load 23 (.tmp 1), _, _, _, _⟩ :: _) _ _); go_must (refine wpList_exec rfl (vN c) (exec_load23 (.tmp 1) rfl (w.heap.size) c rfl R4.out) ?_)) | ((with_reducible show wpList _ _ _ (⟨_, .binOp .eql 23 (.tmp 12) (.tmp 14) 23, _, _, _, _⟩ :: _) _ _); go_must (refine wpList_exec rfl (.bool false) (exec_eq23 (.tmp 12) (.tmp 14) rfl rfl rfl (HE1.out _)) ?_)))
      refine (HN.out _).mono ?_
      rintro ex x5 ⟨rfl, hb⟩
      have R5 := Lib.hid (R4.out.keep hb)
      have Z5 := Lib.hid (Z4.out.keep hb)
      have T5 := Lib.hid (T4.out.keep hb)
      have HB5 := Lib.hid (HB4.out.trans (hb.mono HB4.out.size))
      clear hb R4 Z4 T4 HB4 HN HE1
      go_wp2_with (first | ((with_reducible show wpList _ _ _ (⟨_, .binOp .eql 23 (.tmp 12) (.tmp 20) 23, _, _, _, _⟩ :: _) _ _); go_must (refine wpList_exec rfl (.bool true) (exec_eq23 (.tmp 12) (.tmp 20) rfl rfl rfl (HE2.out _)) ?_)))
      have HLTwheapsize : Hid (w.heap.size < x5.heap.size) := R5.out.lt
      have HLTwheapsizep1 : Hid (w.heap.size + 1 < x5.heap.size) := Z5.out.lt
      have HLTg : Hid (g < x5.heap.size) := T5.out.lt
      refine region_split (fun a' W => NAt W (w.heap.size + 1) x ∧ Below w.heap.size w W ∧ a' = ⟨#[vN a, .pointer (some ⟨w.heap.size, 0, none⟩), .pointer (some ⟨w.heap.size + 1, 0, none⟩), .bool true, .pointer (some ⟨g, 0, none⟩), vN a, vN c, vN c, vN e, vN r, vN r, vN r, vN m, .bool false, vN c, .bool false, undef, undef, .bool true, vN c, vN n, .bool true, vN r, vN i, vN u, vN x, undef], []⟩) ?_ ?_
      · refine startW (fun j => j == 4) (x5.heap.size) (by kernel_rfl) ?_
        obtain ⟨D13, hD13⟩ : ∃ D, D = x5.drew := ⟨_, rfl⟩
        rw [← hD13]
        have HLD13 : Hid (x5.heap.size ≤ D13.heap.size) := Lib.hid (by rw [hD13]; exact Nat.le_refl _)
        have HBD13 : Hid (Below w.heap.size w D13) := Lib.hid (by rw [hD13]; exact below_drewN' HB5.out 1)
        have R0D13 : Hid (NAt D13 (w.heap.size) c) := Lib.hid (by rw [hD13]; exact R5.out)
        have R1D13 : Hid (NAt D13 (g) r) := Lib.hid (by rw [hD13]; exact T5.out)
        have Z0D13 : Hid (ZAt D13 (w.heap.size + 1)) := Lib.hid (by rw [hD13]; exact Z5.out)
        clear hD13
        refine takeT (i := 0) (oi := { dst := some 22, op := Op.load 23 (Operand.tmp 4), type := 23, pos := "field.go:78", after := #[], guard := none }) (vN r) rfl (by kernel_rfl) (by kernel_rfl) (by kernel_rfl) (by kernel_rfl) (by kernel_rfl) (fun _ _ _ h => nomatch h.1) (by rfl) (fun w' hk => exec_load23 (.tmp 4) rfl (g) r rfl (R1D13.out.below hk HLTg.out)) ?_
        simp only [Act.put, List.setIfInBounds_toArray, List.set_cons_zero, List.set_cons_succ]
        refine callW (i := 1) (oi := { dst := some 23, op := Op.call { callee := Callee.value (Operand.func 63), args := #[], argTypes := #[] }, type := 23, pos := "field.go:78", after := #[], guard := none }) rfl (by kernel_rfl) (by rfl) (exec_callL 63 [] #[] rfl [] rfl (CF36 _)) ((H36.out D13).mono ?_)
        rintro eW14 W14 ⟨rfl, hbW14⟩
        refine ⟨_, rfl, fun _ => hbW14.mono HLD13.out, ?_⟩
        have HBW14 : Hid (Below w.heap.size w W14) := Lib.hid (HBD13.out.trans (hbW14.mono HBD13.out.size))
        have HLW14 : Hid (x5.heap.size ≤ W14.heap.size) := Lib.hid (Nat.le_trans HLD13.out hbW14.size)
        have R0D13_W14 := Lib.hid (R0D13.out.keep hbW14)
        have R1D13_W14 := Lib.hid (R1D13.out.keep hbW14)
        have Z0D13_W14 := Lib.hid (Z0D13.out.keep hbW14)
        clear hbW14 HBD13 HLD13 R0D13 R1D13 Z0D13
        simp only [Act.put, List.setIfInBounds_toArray, List.set_cons_zero, List.set_cons_succ]
        refine callW (i := 2) (oi := { dst := some 24, op := Op.call { callee := Callee.value (Operand.func 25), args := #[Operand.tmp 22, Operand.tmp 23], argTypes := #[23, 23] }, type := 23, pos := "field.go:78", after := #[{ on := 0, ground := Ground.data }, { on := 1, ground := Ground.data }, { on := 1, ground := Ground.chain }], guard := none }) rfl (by kernel_rfl) (by rfl) (exec_callL 25 [.tmp 22, .tmp 23] #[23, 23] rfl [vN r, vN i] rfl (CF28 _)) ((HM2.out W14).mono ?_)
        rintro eW15 W15 ⟨rfl, hbW15⟩
        refine ⟨_, rfl, fun _ => hbW15.mono HLW14.out, ?_⟩
        have HBW15 : Hid (Below w.heap.size w W15) := Lib.hid (HBW14.out.trans (hbW15.mono HBW14.out.size))
        have HLW15 : Hid (x5.heap.size ≤ W15.heap.size) := Lib.hid (Nat.le_trans HLW14.out hbW15.size)
        have R0D13_W15 := Lib.hid (R0D13_W14.out.keep hbW15)
        have R1D13_W15 := Lib.hid (R1D13_W14.out.keep hbW15)
        have Z0D13_W15 := Lib.hid (Z0D13_W14.out.keep hbW15)
        clear hbW15 HBW14 HLW14 R0D13_W14 R1D13_W14 Z0D13_W14
        simp only [Act.put, List.setIfInBounds_toArray, List.set_cons_zero, List.set_cons_succ]
        refine callW (i := 3) (oi := { dst := some 25, op := Op.call { callee := Callee.value (Operand.func 62), args := #[Operand.tmp 24], argTypes := #[23] }, type := 23, pos := "field.go:78", after := #[{ on := 2, ground := Ground.data }, { on := 2, ground := Ground.chain }], guard := none }) rfl (by kernel_rfl) (by rfl) (exec_callL 62 [.tmp 24] #[23] rfl [vN u] rfl (CF35 _)) ((HEv2.out W15).mono ?_)
        rintro eW16 W16 ⟨rfl, hbW16⟩
        refine ⟨_, rfl, fun _ => hbW16.mono HLW15.out, ?_⟩
        have HBW16 : Hid (Below w.heap.size w W16) := Lib.hid (HBW15.out.trans (hbW16.mono HBW15.out.size))
        have HLW16 : Hid (x5.heap.size ≤ W16.heap.size) := Lib.hid (Nat.le_trans HLW15.out hbW16.size)
        have R0D13_W16 := Lib.hid (R0D13_W15.out.keep hbW16)
        have R1D13_W16 := Lib.hid (R1D13_W15.out.keep hbW16)
        have Z0D13_W16 := Lib.hid (Z0D13_W15.out.keep hbW16)
        clear hbW16 HBW15 HLW15 R0D13_W15 R1D13_W15 Z0D13_W15
        simp only [Act.put, List.setIfInBounds_toArray, List.set_cons_zero, List.set_cons_succ]
        refine storeW_all (i := 4) (oi := { dst := none, op := Op.store 23 (Operand.tmp 2) (Operand.tmp 25), type := 0, pos := "field.go:78", after := #[{ on := 3, ground := Ground.data }, { on := 3, ground := Ground.chain }, { on := 0, ground := Ground.phase }, { on := 1, ground := Ground.phase }, { on := 2, ground := Ground.phase }, { on := 3, ground := Ground.phase }], guard := none }) rfl (by kernel_rfl) (by rfl) 23 (.tmp 2) (.tmp 25) rfl (w.heap.size + 1) rfl (bcs (enc x)).toArray rfl 23 _ Z0D13_W16.out (by rw [List.size_toArray, bcs_enc_len]; exact size23) (by rw [List.size_toArray, bcs_enc_len]; rfl) (bcs_one _) rfl ?_
        intro W17 hhW17 hgW17 hzW17
        simp only [Act.put, List.setIfInBounds_toArray, List.set_cons_zero, List.set_cons_succ]
        have R0D13_W17 := Lib.hid (R0D13_W16.out.grown hgW17 (by simp))
        have R1D13_W17 := Lib.hid (R1D13_W16.out.grown hgW17 (by have := HGN.out; simp; omega))
        have Swheapsizep1_W17 : Hid (NAt W17 (w.heap.size + 1) x) := Lib.hid ⟨23, hhW17⟩
        have HBW17 : Hid (Below w.heap.size w W17) := Lib.hid (HBW16.out.grown hgW17 HBW16.out.size (fun r hr => by injection hr with hr; omega))
        have HLW17 : Hid (x5.heap.size ≤ W17.heap.size) := Lib.hid (Nat.le_trans HLW16.out hgW17.size)
        clear hhW17 hgW17 hzW17 HBW16 HLW16 R0D13_W16 R1D13_W16 Z0D13_W16
        refine takeAE (i := 5) (oi := { dst := some 3, op := Op.assign (Operand.const (Value.bool true)), type := 4, pos := "field.go:78", after := #[{ on := 4, ground := Ground.chain }, { on := 0, ground := Ground.phase }, { on := 1, ground := Ground.phase }, { on := 2, ground := Ground.phase }, { on := 3, ground := Ground.phase }, { on := 4, ground := Ground.phase }], guard := none }) rfl (by kernel_rfl) (by kernel_rfl) (by kernel_rfl) (fun _ _ _ _ h => nomatch h.1) (by rfl) ?_
        refine ⟨.bool true, fun w' => exec_moveA (.const (.bool true)) rfl _ rfl, ?_⟩
        simp only [Act.put, List.setIfInBounds_toArray, List.set_cons_zero, List.set_cons_succ]
        refine doneW (by kernel_rfl) ⟨rfl, ?_⟩ _
        exact ⟨Swheapsizep1_W17.out, HBW17.out, rfl⟩
      rintro a' x6 ⟨⟨t, ht⟩, hb, rfl⟩
      have HH := Lib.hid ht
      have HBel := Lib.hid hb
      clear ht hb R5 Z5 T5 HB5 HLTwheapsize HLTwheapsizep1 HLTg
      go_wp2
      exact bodyPost_ret (results_cell2 rfl _ _ (w.heap.size + 1) t (bcs (enc x)).toArray (0, 0) _ rfl HH.out under23 rfl (by rw [List.size_toArray, bcs_enc_len]; exact size23)) rfl ⟨rfl, HBel.out⟩
  · have hx : (x, ok) = (v1, true) := HX.out
    obtain ⟨rfl, rfl⟩ := Prod.mk.inj hx
    clear hx HX
    go_wp2_with (first | ((with_reducible show wpList _ _ _ (⟨_, .load 23 (.tmp 1), _, _, _, _⟩ :: _) _ _); go_must (refine wpList_exec rfl (vN c) (exec_load23 (.tmp 1) rfl (w.heap.size) c rfl R4.out) ?_)) | ((with_reducible show wpList _ _ _ (⟨_, .binOp .eql 23 (.tmp 12) (.tmp 14) 23, _, _, _, _⟩ :: _) _ _); go_must (refine wpList_exec rfl (.bool true) (exec_eq23 (.tmp 12) (.tmp 14) rfl rfl rfl (HE1.out _)) ?_)) | ((with_reducible show wpList _ _ _ (⟨_, .load 23 (.tmp 4), _, _, _, _⟩ :: _) _ _); go_must (refine wpList_exec rfl (vN r) (exec_load23 (.tmp 4) rfl (g) r rfl T4.out) ?_)))
    refine (HEv.out _).mono ?_
    rintro ex x5 ⟨rfl, hb⟩
    have Z5 := Lib.hid (Z4.out.keep hb)
    have HB5 := Lib.hid (HB4.out.trans (hb.mono HB4.out.size))
    clear hb R4 Z4 T4 HB4 HEv
    go_wp2_with ((with_reducible show wpList _ _ _ (⟨none, .store 23 (.tmp 2) (.tmp 17), _, _, _, _⟩ :: _) _ _); go_must (refine wpList_store_all rfl 23 (.tmp 2) (.tmp 17) rfl (w.heap.size + 1) rfl (bcs (enc x)).toArray rfl 23 _ Z5.out (by rw [List.size_toArray, bcs_enc_len]; exact size23) (by rw [List.size_toArray, bcs_enc_len]; rfl) (bcs_one _) ?_; intro y1 hh hg hz; have HH := Lib.hid hh; have HBel : Hid (Below w.heap.size w y1) := HB5.out.grown hg HB5.out.size (fun r hr => by injection hr with hr; omega); clear hh hg hz))
    exact bodyPost_ret (results_cell2 rfl _ _ (w.heap.size + 1) 23 (bcs (enc x)).toArray (0, 0) _ rfl HH.out under23 rfl (by rw [List.size_toArray, bcs_enc_len]; exact size23)) rfl ⟨rfl, HBel.out⟩
end Go.Proofs.Ytgdimnbdnepbgaa
