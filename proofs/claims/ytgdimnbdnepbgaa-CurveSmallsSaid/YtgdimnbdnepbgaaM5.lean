/- Several texts in one. No statement is proved here. -/
import Derived.Test.YtgdimnbdnepbgaaM4
import Derived.Test.YtgdimnbdnepbgaaM2
import Derived.ChangeSame
/- The curve: across, Bytes, Read. No statement is proved here. -/
namespace Go.Proofs.Ytgdimnbdnepbgaa
open Go.RowKit
set_option linter.unusedVariables false
set_option maxRecDepth 40000
set_option linter.unusedSimpArgs false
def oEI0 : Oper := { dst := some 8, op := Op.load 23 (Operand.tmp 1), type := 23, pos := "curve.go:119", after := #[], guard := none }
def oEI1 : Oper := { dst := some 9, op := Op.load 23 (Operand.tmp 1), type := 23, pos := "curve.go:119", after := #[], guard := none }
def oEI2 : Oper := { dst := some 7, op := Op.call { callee := Callee.value (Operand.func 17), args := #[Operand.const (Value.int IntKind.u64 1)], argTypes := #[24] }, type := 23, pos := "curve.go:119", after := #[], guard := none }
def oEI3 : Oper := { dst := some 10, op := Op.call { callee := Callee.value (Operand.func 25), args := #[Operand.tmp 8, Operand.tmp 9], argTypes := #[23, 23] }, type := 23, pos := "curve.go:119", after := #[{ on := 1, ground := Ground.data }, { on := 2, ground := Ground.data }, { on := 0, ground := Ground.chain }], guard := none }
def oEI4 : Oper := { dst := some 4, op := Op.alloc 23, type := 0, pos := "curve.go:119", after := #[], guard := none }
def oEI5 : Oper := { dst := some 5, op := Op.alloc 23, type := 0, pos := "curve.go:119", after := #[], guard := none }
def oEI6 : Oper := { dst := none, op := Op.store 23 (Operand.tmp 4) (Operand.tmp 7), type := 0, pos := "curve.go:119", after := #[{ on := 4, ground := Ground.data }, { on := 0, ground := Ground.data }, { on := 3, ground := Ground.chain }, { on := 0, ground := Ground.phase }, { on := 1, ground := Ground.textOnly Departure.lateStores }, { on := 2, ground := Ground.textOnly Departure.lateStores }, { on := 3, ground := Ground.textOnly Departure.lateStoresUnsure }, { on := 4, ground := Ground.phase }, { on := 5, ground := Ground.phase }], guard := none }
def oEI7 : Oper := { dst := none, op := Op.store 23 (Operand.tmp 5) (Operand.tmp 10), type := 0, pos := "curve.go:119", after := #[{ on := 5, ground := Ground.data }, { on := 3, ground := Ground.data }, { on := 6, ground := Ground.chain }, { on := 0, ground := Ground.phase }, { on := 1, ground := Ground.phase }, { on := 2, ground := Ground.phase }, { on := 3, ground := Ground.phase }, { on := 4, ground := Ground.phase }, { on := 5, ground := Ground.phase }, { on := 6, ground := Ground.phase }], guard := none }
def oEI8 : Oper := { dst := some 12, op := Op.load 23 (Operand.tmp 5), type := 23, pos := "curve.go:120", after := #[], guard := none }
def oEI9 : Oper := { dst := some 14, op := Op.load 23 (Operand.tmp 4), type := 23, pos := "curve.go:120", after := #[], guard := none }
def oEI10 : Oper := { dst := some 11, op := Op.call { callee := Callee.value (Operand.func 45), args := #[], argTypes := #[] }, type := 23, pos := "curve.go:120", after := #[], guard := none }
def oEI11 : Oper := { dst := some 13, op := Op.call { callee := Callee.value (Operand.func 25), args := #[Operand.tmp 11, Operand.tmp 12], argTypes := #[23, 23] }, type := 23, pos := "curve.go:120", after := #[{ on := 0, ground := Ground.data }, { on := 1, ground := Ground.data }, { on := 0, ground := Ground.chain }], guard := none }
def oEI12 : Oper := { dst := some 15, op := Op.call { callee := Callee.value (Operand.func 19), args := #[Operand.tmp 13, Operand.tmp 14], argTypes := #[23, 23] }, type := 23, pos := "curve.go:120", after := #[{ on := 2, ground := Ground.data }, { on := 3, ground := Ground.data }, { on := 2, ground := Ground.chain }], guard := none }
def oEI13 : Oper := { dst := some 16, op := Op.call { callee := Callee.value (Operand.func 29), args := #[Operand.tmp 15], argTypes := #[23] }, type := 23, pos := "curve.go:120", after := #[{ on := 4, ground := Ground.data }, { on := 4, ground := Ground.chain }], guard := none }
def oEI14 : Oper := { dst := some 6, op := Op.alloc 23, type := 0, pos := "curve.go:120", after := #[], guard := none }
def oEI15 : Oper := { dst := none, op := Op.store 23 (Operand.tmp 6) (Operand.tmp 16), type := 0, pos := "curve.go:120", after := #[{ on := 6, ground := Ground.data }, { on := 5, ground := Ground.data }, { on := 5, ground := Ground.chain }, { on := 0, ground := Ground.phase }, { on := 1, ground := Ground.phase }, { on := 2, ground := Ground.phase }, { on := 3, ground := Ground.phase }, { on := 4, ground := Ground.phase }, { on := 5, ground := Ground.phase }, { on := 6, ground := Ground.phase }], guard := none }
def oEI16 : Oper := { dst := some 17, op := Op.load 23 (Operand.tmp 5), type := 23, pos := "curve.go:121", after := #[], guard := none }
def oEI17 : Oper := { dst := some 18, op := Op.load 23 (Operand.tmp 4), type := 23, pos := "curve.go:121", after := #[], guard := none }
def oEI18 : Oper := { dst := some 20, op := Op.load 23 (Operand.tmp 6), type := 23, pos := "curve.go:121", after := #[], guard := none }
def oEI19 : Oper := { dst := some 19, op := Op.call { callee := Callee.value (Operand.func 21), args := #[Operand.tmp 17, Operand.tmp 18], argTypes := #[23, 23] }, type := 23, pos := "curve.go:121", after := #[{ on := 0, ground := Ground.data }, { on := 1, ground := Ground.data }], guard := none }
def oEI20 : Oper := { dst := some 21, op := Op.call { callee := Callee.value (Operand.func 25), args := #[Operand.tmp 19, Operand.tmp 20], argTypes := #[23, 23] }, type := 23, pos := "curve.go:121", after := #[{ on := 2, ground := Ground.data }, { on := 3, ground := Ground.data }, { on := 2, ground := Ground.chain }], guard := none }
def oEI21 : Oper := { dst := some 22, op := Op.call { callee := Callee.value (Operand.func 11), args := #[Operand.tmp 21], argTypes := #[23] }, type := 26, pos := "curve.go:121", after := #[{ on := 4, ground := Ground.data }, { on := 4, ground := Ground.chain }], guard := none }
def oEI22 : Oper := { dst := some 23, op := Op.extract (Operand.tmp 22) 0, type := 23, pos := "curve.go:121", after := #[{ on := 5, ground := Ground.data }], guard := none }
def oEI23 : Oper := { dst := some 24, op := Op.extract (Operand.tmp 22) 1, type := 4, pos := "curve.go:121", after := #[{ on := 5, ground := Ground.data }], guard := none }
def oEI24 : Oper := { dst := none, op := Op.store 23 (Operand.tmp 2) (Operand.tmp 23), type := 0, pos := "curve.go:121", after := #[{ on := 6, ground := Ground.data }, { on := 5, ground := Ground.chain }, { on := 0, ground := Ground.phase }, { on := 1, ground := Ground.phase }, { on := 2, ground := Ground.phase }, { on := 3, ground := Ground.phase }, { on := 4, ground := Ground.phase }, { on := 5, ground := Ground.phase }, { on := 6, ground := Ground.phase }, { on := 7, ground := Ground.phase }], guard := none }
def oEI25 : Oper := { dst := some 3, op := Op.assign (Operand.tmp 24), type := 4, pos := "curve.go:121", after := #[{ on := 7, ground := Ground.data }, { on := 8, ground := Ground.chain }, { on := 0, ground := Ground.phase }, { on := 1, ground := Ground.phase }, { on := 2, ground := Ground.phase }, { on := 3, ground := Ground.phase }, { on := 4, ground := Ground.phase }, { on := 5, ground := Ground.phase }, { on := 6, ground := Ground.phase }, { on := 7, ground := Ground.phase }, { on := 8, ground := Ground.phase }], guard := none }

theorem under22 : Try.prog.underlying 22 = some (.array 32 5) := by kernel_rfl
theorem size22 : (Try.prog.info? 22).map (·.size) = some 32 := by kernel_rfl
theorem or_top : ∀ t : Nat, t < 128 → bits .or .u8 (t : Int) 128 = ((t + 128 : Nat) : Int) := by decide +kernel
theorem byte_val (c : Nat) (h : c < 256) : Value.int IntKind.u8 ((c : Nat) : Int) = bc (UInt8.ofNat c) := by unfold bc; rw [of_byte, Nat.mod_eq_of_lt h]
theorem zero22 (w : World) : (zeroValue 22).run Try.prog w = .ok (.agg (zbs 32)) w := by kernel_rfl
theorem exec_load22 {o : Oper} {a : Act} {w : World} (x : Operand) (ho : o.op = .load 22 x) (g i off : Nat) (he : off = 32 * i) (l : List Nat) (n : Nat) (hx : a.eval x = .pointer (some ⟨g, off, none⟩)) (hr : RAt w g l) (hn : l[i]? = some n) : (execOp a.eval o).run Try.prog w = .ok (.value (vN n)) w := by
  subst he
  have hl : (loadCells ⟨g, 32 * i, none⟩ (bcs (enc n)).length).run Try.prog w = .ok (bcs (enc n)).toArray w :=
    run_loadCells_list (P := Try.prog) w ⟨g, 32 * i, none⟩ (bcs (enc n)) (fun j v hv => by
      have hadd : (⟨g, 32 * i, none⟩ : Addr).add j = ⟨g, 32 * i + j, none⟩ := by unfold Addr.add; split <;> simp_all
      rw [hadd]
      exact hr.cells i n hn j v hv)
  have hagg : (isAgg 22).run Try.prog w = .ok true w := by
    unfold isAgg
    rw [Sem.run_bind, run_underlying under22 w]
    rfl
  have hq : ∃ i, Try.prog.info? 22 = some i ∧ i.size = 32 := by
    have := size22
    cases h : Try.prog.info? 22 with
    | none => rw [h] at this; simp at this
    | some i => exact ⟨i, rfl, by rw [h] at this; simpa using this⟩
  obtain ⟨k, hi, hs⟩ := hq
  have hrun : (Instr.loadAt 22 (.pointer (some ⟨g, 32 * i, none⟩))).run Try.prog w = .ok (vN n) w := by
    rw [bcs_enc_len] at hl
    simp [Instr.loadAt, Instr.sureAddr, loadVar, Sem.run_bind, hagg, sizeOf, typeInfo, hi, hs, hl]
    rfl
  unfold execOp
  simp only [ho, hx, Sem.run_bind, Sem.run_pure, Result.andThen_ok, hrun]

set_option maxHeartbeats 4000000 in
theorem across_core (y yy dd m s below u q x : Nat) (ok : Bool) (w : World)
    (C0 : Hid (∀ w, Calls Try.prog 17 #[.int .u64 1] w (Gives (vN 1) w)))
    (C1 : Hid (∀ w, Calls Try.prog 25 #[vN y, vN y] w (Gives (vN yy) w)))
    (C2 : Hid (∀ w, Calls Try.prog 45 #[] w (Gives (vN dd) w)))
    (C3 : Hid (∀ w, Calls Try.prog 25 #[vN dd, vN yy] w (Gives (vN m) w)))
    (C4 : Hid (∀ w, Calls Try.prog 19 #[vN m, vN 1] w (Gives (vN s) w)))
    (C5 : Hid (∀ w, Calls Try.prog 29 #[vN s] w (Gives (vN below) w)))
    (C6 : Hid (∀ w, Calls Try.prog 21 #[vN yy, vN 1] w (Gives (vN u) w)))
    (C7 : Hid (∀ w, Calls Try.prog 25 #[vN u, vN below] w (Gives (vN q) w)))
    (C8 : Hid (∀ w, Calls Try.prog 11 #[vN q] w (Gives (.tuple #[vN x, .bool ok]) w))) :
    Calls Try.prog 78 #[vN y] w (Gives (.tuple #[vN x, .bool ok]) w) := by
  have HF_0 : Hid (Below w.heap.size w w) := Lib.hid (Below.refl _ _)
  go_enter Try.func78, Try.ntmps78
  go_wp2_with (first | ((with_reducible show wpList _ _ _ (⟨some 1, .box 23 (.tmp 0), _, _, _, _⟩ :: _) _ _); go_must (refine wpList_box_row rfl 23 (.tmp 0) rfl (bcs (enc y)).toArray rfl ?_; intro u1 ha1 hza1 hga1; have Ngy_1 : Hid (RAt u1 w.heap.size [y]) := Lib.hid (NAt.row ⟨_, ha1⟩); have HF_1 : Hid (Below w.heap.size w u1) := Lib.hid (HF_0.out.grown hga1 HF_0.out.size (by simp)); have HGE1 : Hid (w.heap.size ≤ w.heap.size) := Lib.hid HF_0.out.size; clear ha1 hza1 hga1 HF_0)) | ((with_reducible show wpList _ _ _ (⟨some 2, .alloc 23, _, _, _, _⟩ :: _) _ _); go_must (refine wpList_alloc_row rfl 23 rfl (.agg (zbs 32)) zero23 ?_; intro u2 ha2 hza2 hga2; have Ngy_2 := Lib.hid (Ngy_1.out.grown hga2 (by simp)); have Ngr_2 : Hid (RAt u2 u1.heap.size [0]) := Lib.hid (zrow (k := 1) ha2); have HF_2 : Hid (Below w.heap.size w u2) := Lib.hid (HF_1.out.grown hga2 HF_1.out.size (by simp)); have HNE2_0 : Hid (w.heap.size ≠ u1.heap.size) := Lib.hid (by have := Ngy_1.out.lt; omega); have HGE2 : Hid (w.heap.size ≤ u1.heap.size) := Lib.hid HF_1.out.size; clear ha2 hza2 hga2 Ngy_1 HF_1)) | fail)
  generalize u1.heap.size = gr at *
  have HLT3_0 := lR Ngy_2
  have HLT3_1 := lR Ngr_2
  have HLO3 : Hid (w.heap.size ≤ u2.heap.size) := Lib.hid HF_2.out.size
  refine region_split (fun a' W => ∃ a3_0 a3_1, RAt W w.heap.size [y] ∧ RAt W gr [0] ∧ RAt W a3_0 [1] ∧ RAt W a3_1 [yy] ∧ u2.heap.size ≤ a3_0 ∧ u2.heap.size ≤ a3_1 ∧ a3_1 ≠ a3_0 ∧ Below w.heap.size w W ∧ a' = ⟨#[vN y, .pointer (some ⟨w.heap.size, 0, none⟩), .pointer (some ⟨gr, 0, none⟩), .bool false, .pointer (some ⟨a3_0, 0, none⟩), .pointer (some ⟨a3_1, 0, none⟩), undef, vN 1, vN y, vN y, vN yy, undef, undef, undef, undef, undef, undef, undef, undef, undef, undef, undef, undef, undef, undef], []⟩) ?_ ?_
  · refine startW (fun j => j == 6 || j == 7) (u2.heap.size) (by kernel_rfl) ?_
    obtain ⟨D3, hD3⟩ : ∃ D, D = u2.drew := ⟨_, rfl⟩
    rw [← hD3]
    have HL_3 := dLq hD3
    have Ngy_3 := dRq hD3 Ngy_2
    have Ngr_3 := dRq hD3 Ngr_2
    have HF_3 : Hid (Below w.heap.size w D3) := Lib.hid (by rw [hD3]; exact below_drewN' HF_2.out 1)
    clear hD3 Ngy_2 Ngr_2 HF_2
    refine takeT (i := 1) (oi := oEI0) (vN y) rfl (by kernel_rfl) (by kernel_rfl) (by kernel_rfl) (by kernel_rfl) (by kernel_rfl) (fun _ _ _ h => nomatch h.1) (by rfl) (fun w' hk => exec_loadF (.tmp 1) rfl (w.heap.size) 0 0 rfl [y] y rfl (Ngy_3.out.below hk HLT3_0.out) rfl) ?_
    simp only [oEI0, Act.put, zA, zB, zC]
    refine takeT (i := 2) (oi := oEI1) (vN y) rfl (by kernel_rfl) (by kernel_rfl) (by kernel_rfl) (by kernel_rfl) (by kernel_rfl) (fun _ _ _ h => nomatch h.1) (by rfl) (fun w' hk => exec_loadF (.tmp 1) rfl (w.heap.size) 0 0 rfl [y] y rfl (Ngy_3.out.below hk HLT3_0.out) rfl) ?_
    simp only [oEI1, Act.put, zA, zB, zC]
    refine eachW [0, 4, 5] (by kernel_rfl) (by simp) ?_
    intro k hk
    simp only [zM, zN, or_false] at hk
    rcases hk with rfl | rfl | rfl
    · refine wpOp_call (i := 0) (oi := oEI2) rfl (by rfl) (exec_callL 17 [.const (.int .u64 1)] #[24] rfl [.int .u64 1] rfl (CG17 _)) ((C0.out D3).mono ?_)
      rintro e4 W4 ⟨rfl, hb4⟩
      refine ⟨_, rfl, fun _ => hb4.mono HL_3.out, ?_⟩
      have Ngy_4 := hKq Ngy_3 hb4
      have Ngr_4 := hKq Ngr_3 hb4
      have HF_4 := fTq HF_3 hb4
      have HL_4 := lT HL_3 hb4
      clear hb4 HL_3 Ngy_3 Ngr_3 HF_3
      simp only [oEI2, Act.put, zA, zB, zC]
      refine eachW [3, 4, 5] (by kernel_rfl) (by simp) ?_
      intro k hk
      simp only [zM, zN, or_false] at hk
      rcases hk with rfl | rfl | rfl
      · refine wpOp_call (i := 3) (oi := oEI3) rfl (by rfl) (exec_callL 25 [.tmp 8, .tmp 9] #[23, 23] rfl [vN y, vN y] rfl (CG25 _)) ((C1.out W4).mono ?_)
        rintro e5 W5 ⟨rfl, hb5⟩
        refine ⟨_, rfl, fun _ => hb5.mono HL_4.out, ?_⟩
        have Ngy_5 := hKq Ngy_4 hb5
        have Ngr_5 := hKq Ngr_4 hb5
        have HF_5 := fTq HF_4 hb5
        have HL_5 := lT HL_4 hb5
        clear hb5 HL_4 Ngy_4 Ngr_4 HF_4
        simp only [oEI3, Act.put, zA, zB, zC]
        refine eachW [4, 5] (by kernel_rfl) (by simp) ?_
        intro k hk
        simp only [zM, zN, or_false] at hk
        rcases hk with rfl | rfl
        · refine wpOp_value (i := 4) (oi := oEI4) rfl (by rfl) (exec_alloc 23 rfl (.agg (zbs 32)) zero23 W5) ⟨fun _ => (below_alloc W5 _).mono HL_5.out, ?_⟩
          obtain ⟨W6, hW6, hb6, hz6⟩ := alloc_zero W5
          rw [← hW6]
          obtain ⟨g6, hg6⟩ : ∃ g, g = W5.heap.size := ⟨_, rfl⟩
          rw [← hg6] at hz6 ⊢
          have HG6 := gE hg6 HL_5
          have HX6_1 := nXq Ngy_5 hg6
          have HX6_2 := nXq Ngr_5 hg6
          have Ngy_6 := hKq Ngy_5 hb6
          have Ngr_6 := hKq Ngr_5 hb6
          have HF_6 := fTq HF_5 hb6
          have HL_6 := lT HL_5 hb6
          have RZ6_6 := zrq hz6
          clear hb6 hz6 hg6 hW6 HL_5 Ngy_5 Ngr_5 HF_5
          simp only [oEI4, Act.put, zA, zB, zC]
          refine opW _ _ (i := 5) (oi := oEI5) rfl (by kernel_rfl) (by rfl) (exec_alloc 23 rfl (.agg (zbs 32)) zero23 W6) (fun _ => (below_alloc W6 _).mono HL_6.out) ?_
          obtain ⟨W7, hW7, hb7, hz7⟩ := alloc_zero W6
          rw [← hW7]
          obtain ⟨g7, hg7⟩ : ∃ g, g = W6.heap.size := ⟨_, rfl⟩
          rw [← hg7] at hz7 ⊢
          have HG7 := gE hg7 HL_6
          have HX7_3 := nXq Ngy_6 hg7
          have HX7_4 := nXq Ngr_6 hg7
          have HX7_5 := nXq RZ6_6 hg7
          have Ngy_7 := hKq Ngy_6 hb7
          have Ngr_7 := hKq Ngr_6 hb7
          have RZ6_7 := hKq RZ6_6 hb7
          have HF_7 := fTq HF_6 hb7
          have HL_7 := lT HL_6 hb7
          have RZ7_7 := zrq hz7
          clear hb7 hz7 hg7 hW7 HL_6 Ngy_6 Ngr_6 RZ6_6 HF_6
          simp only [oEI5, Act.put, zA, zB, zC]
          refine storeW_F (i := 6) (oi := oEI6) rfl (by kernel_rfl) (by rfl) (.tmp 4) (.tmp 7) rfl (g6) 0 0 rfl [0] 1 rfl rfl RZ6_7.out (show 0 < 1 by omega) rfl ?_
          intro W8 hr8 hg8 hz8
          simp only [oEI6, Act.put, zA, zB, zC]
          have Ngy_8 := hGq Ngy_7 hg8 HX6_1
          have Ngr_8 := hGq Ngr_7 hg8 HX6_2
          have RZ6_8 : Hid (RAt W8 g6 [1]) := Lib.hid hr8
          have RZ7_8 := hGq RZ7_7 hg8 HX7_5
          have HF_8 := fBq HF_7 hg8 HG6 HLO3
          have HL_8 := lG HL_7 hg8
          clear hr8 hg8 hz8 HL_7 Ngy_7 Ngr_7 RZ6_7 RZ7_7 HF_7
          refine storeW_F (i := 7) (oi := oEI7) rfl (by kernel_rfl) (by rfl) (.tmp 5) (.tmp 10) rfl (g7) 0 0 rfl [0] yy rfl rfl RZ7_8.out (show 0 < 1 by omega) rfl ?_
          intro W9 hr9 hg9 hz9
          simp only [oEI7, Act.put, zA, zB, zC]
          have Ngy_9 := hGq Ngy_8 hg9 HX7_3
          have Ngr_9 := hGq Ngr_8 hg9 HX7_4
          have RZ6_9 := hGq RZ6_8 hg9 HX7_5
          have RZ7_9 : Hid (RAt W9 g7 [yy]) := Lib.hid hr9
          have HF_9 := fBq HF_8 hg9 HG7 HLO3
          have HL_9 := lG HL_8 hg9
          clear hr9 hg9 hz9 HL_8 Ngy_8 Ngr_8 RZ6_8 RZ7_8 HF_8
          refine doneW (by kernel_rfl) ⟨rfl, ?_⟩ _
          exact ⟨g6, g7, Ngy_9.out, Ngr_9.out, RZ6_9.out, RZ7_9.out, HG6.out, HG7.out, (by have := HX7_5.out; omega), HF_9.out, rfl⟩
        · refine wpOp_value (i := 5) (oi := oEI5) rfl (by rfl) (exec_alloc 23 rfl (.agg (zbs 32)) zero23 W5) ⟨fun _ => (below_alloc W5 _).mono HL_5.out, ?_⟩
          obtain ⟨W10, hW10, hb10, hz10⟩ := alloc_zero W5
          rw [← hW10]
          obtain ⟨g10, hg10⟩ : ∃ g, g = W5.heap.size := ⟨_, rfl⟩
          rw [← hg10] at hz10 ⊢
          have HG10 := gE hg10 HL_5
          have HX10_1 := nXq Ngy_5 hg10
          have HX10_2 := nXq Ngr_5 hg10
          have Ngy_10 := hKq Ngy_5 hb10
          have Ngr_10 := hKq Ngr_5 hb10
          have HF_10 := fTq HF_5 hb10
          have HL_10 := lT HL_5 hb10
          have RZ10_10 := zrq hz10
          clear hb10 hz10 hg10 hW10 HL_5 Ngy_5 Ngr_5 HF_5
          simp only [oEI5, Act.put, zA, zB, zC]
          refine opW _ _ (i := 4) (oi := oEI4) rfl (by kernel_rfl) (by rfl) (exec_alloc 23 rfl (.agg (zbs 32)) zero23 W10) (fun _ => (below_alloc W10 _).mono HL_10.out) ?_
          obtain ⟨W11, hW11, hb11, hz11⟩ := alloc_zero W10
          rw [← hW11]
          obtain ⟨g11, hg11⟩ : ∃ g, g = W10.heap.size := ⟨_, rfl⟩
          rw [← hg11] at hz11 ⊢
          have HG11 := gE hg11 HL_10
          have HX11_3 := nXq Ngy_10 hg11
          have HX11_4 := nXq Ngr_10 hg11
          have HX11_5 := nXq RZ10_10 hg11
          have Ngy_11 := hKq Ngy_10 hb11
          have Ngr_11 := hKq Ngr_10 hb11
          have RZ10_11 := hKq RZ10_10 hb11
          have HF_11 := fTq HF_10 hb11
          have HL_11 := lT HL_10 hb11
          have RZ11_11 := zrq hz11
          clear hb11 hz11 hg11 hW11 HL_10 Ngy_10 Ngr_10 RZ10_10 HF_10
          simp only [oEI4, Act.put, zA, zB, zC]
          refine storeW_F (i := 6) (oi := oEI6) rfl (by kernel_rfl) (by rfl) (.tmp 4) (.tmp 7) rfl (g11) 0 0 rfl [0] 1 rfl rfl RZ11_11.out (show 0 < 1 by omega) rfl ?_
          intro W12 hr12 hg12 hz12
          simp only [oEI6, Act.put, zA, zB, zC]
          have Ngy_12 := hGq Ngy_11 hg12 HX11_3
          have Ngr_12 := hGq Ngr_11 hg12 HX11_4
          have RZ10_12 := hGq RZ10_11 hg12 HX11_5
          have RZ11_12 : Hid (RAt W12 g11 [1]) := Lib.hid hr12
          have HF_12 := fBq HF_11 hg12 HG11 HLO3
          have HL_12 := lG HL_11 hg12
          clear hr12 hg12 hz12 HL_11 Ngy_11 Ngr_11 RZ10_11 RZ11_11 HF_11
          refine storeW_F (i := 7) (oi := oEI7) rfl (by kernel_rfl) (by rfl) (.tmp 5) (.tmp 10) rfl (g10) 0 0 rfl [0] yy rfl rfl RZ10_12.out (show 0 < 1 by omega) rfl ?_
          intro W13 hr13 hg13 hz13
          simp only [oEI7, Act.put, zA, zB, zC]
          have Ngy_13 := hGq Ngy_12 hg13 HX10_1
          have Ngr_13 := hGq Ngr_12 hg13 HX10_2
          have RZ10_13 : Hid (RAt W13 g10 [yy]) := Lib.hid hr13
          have RZ11_13 := hGq RZ11_12 hg13 HX11_5
          have HF_13 := fBq HF_12 hg13 HG10 HLO3
          have HL_13 := lG HL_12 hg13
          clear hr13 hg13 hz13 HL_12 Ngy_12 Ngr_12 RZ10_12 RZ11_12 HF_12
          refine doneW (by kernel_rfl) ⟨rfl, ?_⟩ _
          exact ⟨g11, g10, Ngy_13.out, Ngr_13.out, RZ11_13.out, RZ10_13.out, HG11.out, HG10.out, (by have := HX11_5.out; omega), HF_13.out, rfl⟩
      · refine wpOp_value (i := 4) (oi := oEI4) rfl (by rfl) (exec_alloc 23 rfl (.agg (zbs 32)) zero23 W4) ⟨fun _ => (below_alloc W4 _).mono HL_4.out, ?_⟩
        obtain ⟨W14, hW14, hb14, hz14⟩ := alloc_zero W4
        rw [← hW14]
        obtain ⟨g14, hg14⟩ : ∃ g, g = W4.heap.size := ⟨_, rfl⟩
        rw [← hg14] at hz14 ⊢
        have HG14 := gE hg14 HL_4
        have HX14_1 := nXq Ngy_4 hg14
        have HX14_2 := nXq Ngr_4 hg14
        have Ngy_14 := hKq Ngy_4 hb14
        have Ngr_14 := hKq Ngr_4 hb14
        have HF_14 := fTq HF_4 hb14
        have HL_14 := lT HL_4 hb14
        have RZ14_14 := zrq hz14
        clear hb14 hz14 hg14 hW14 HL_4 Ngy_4 Ngr_4 HF_4
        simp only [oEI4, Act.put, zA, zB, zC]
        refine eachW [3, 5] (by kernel_rfl) (by simp) ?_
        intro k hk
        simp only [zM, zN, or_false] at hk
        rcases hk with rfl | rfl
        · refine wpOp_call (i := 3) (oi := oEI3) rfl (by rfl) (exec_callL 25 [.tmp 8, .tmp 9] #[23, 23] rfl [vN y, vN y] rfl (CG25 _)) ((C1.out W14).mono ?_)
          rintro e15 W15 ⟨rfl, hb15⟩
          refine ⟨_, rfl, fun _ => hb15.mono HL_14.out, ?_⟩
          have Ngy_15 := hKq Ngy_14 hb15
          have Ngr_15 := hKq Ngr_14 hb15
          have RZ14_15 := hKq RZ14_14 hb15
          have HF_15 := fTq HF_14 hb15
          have HL_15 := lT HL_14 hb15
          clear hb15 HL_14 Ngy_14 Ngr_14 RZ14_14 HF_14
          simp only [oEI3, Act.put, zA, zB, zC]
          refine opW _ _ (i := 5) (oi := oEI5) rfl (by kernel_rfl) (by rfl) (exec_alloc 23 rfl (.agg (zbs 32)) zero23 W15) (fun _ => (below_alloc W15 _).mono HL_15.out) ?_
          obtain ⟨W16, hW16, hb16, hz16⟩ := alloc_zero W15
          rw [← hW16]
          obtain ⟨g16, hg16⟩ : ∃ g, g = W15.heap.size := ⟨_, rfl⟩
          rw [← hg16] at hz16 ⊢
          have HG16 := gE hg16 HL_15
          have HX16_3 := nXq Ngy_15 hg16
          have HX16_4 := nXq Ngr_15 hg16
          have HX16_5 := nXq RZ14_15 hg16
          have Ngy_16 := hKq Ngy_15 hb16
          have Ngr_16 := hKq Ngr_15 hb16
          have RZ14_16 := hKq RZ14_15 hb16
          have HF_16 := fTq HF_15 hb16
          have HL_16 := lT HL_15 hb16
          have RZ16_16 := zrq hz16
          clear hb16 hz16 hg16 hW16 HL_15 Ngy_15 Ngr_15 RZ14_15 HF_15
          simp only [oEI5, Act.put, zA, zB, zC]
          refine storeW_F (i := 6) (oi := oEI6) rfl (by kernel_rfl) (by rfl) (.tmp 4) (.tmp 7) rfl (g14) 0 0 rfl [0] 1 rfl rfl RZ14_16.out (show 0 < 1 by omega) rfl ?_
          intro W17 hr17 hg17 hz17
          simp only [oEI6, Act.put, zA, zB, zC]
          have Ngy_17 := hGq Ngy_16 hg17 HX14_1
          have Ngr_17 := hGq Ngr_16 hg17 HX14_2
          have RZ14_17 : Hid (RAt W17 g14 [1]) := Lib.hid hr17
          have RZ16_17 := hGq RZ16_16 hg17 HX16_5
          have HF_17 := fBq HF_16 hg17 HG14 HLO3
          have HL_17 := lG HL_16 hg17
          clear hr17 hg17 hz17 HL_16 Ngy_16 Ngr_16 RZ14_16 RZ16_16 HF_16
          refine storeW_F (i := 7) (oi := oEI7) rfl (by kernel_rfl) (by rfl) (.tmp 5) (.tmp 10) rfl (g16) 0 0 rfl [0] yy rfl rfl RZ16_17.out (show 0 < 1 by omega) rfl ?_
          intro W18 hr18 hg18 hz18
          simp only [oEI7, Act.put, zA, zB, zC]
          have Ngy_18 := hGq Ngy_17 hg18 HX16_3
          have Ngr_18 := hGq Ngr_17 hg18 HX16_4
          have RZ14_18 := hGq RZ14_17 hg18 HX16_5
          have RZ16_18 : Hid (RAt W18 g16 [yy]) := Lib.hid hr18
          have HF_18 := fBq HF_17 hg18 HG16 HLO3
          have HL_18 := lG HL_17 hg18
          clear hr18 hg18 hz18 HL_17 Ngy_17 Ngr_17 RZ14_17 RZ16_17 HF_17
          refine doneW (by kernel_rfl) ⟨rfl, ?_⟩ _
          exact ⟨g14, g16, Ngy_18.out, Ngr_18.out, RZ14_18.out, RZ16_18.out, HG14.out, HG16.out, (by have := HX16_5.out; omega), HF_18.out, rfl⟩
        · refine wpOp_value (i := 5) (oi := oEI5) rfl (by rfl) (exec_alloc 23 rfl (.agg (zbs 32)) zero23 W14) ⟨fun _ => (below_alloc W14 _).mono HL_14.out, ?_⟩
          obtain ⟨W19, hW19, hb19, hz19⟩ := alloc_zero W14
          rw [← hW19]
          obtain ⟨g19, hg19⟩ : ∃ g, g = W14.heap.size := ⟨_, rfl⟩
          rw [← hg19] at hz19 ⊢
          have HG19 := gE hg19 HL_14
          have HX19_3 := nXq Ngy_14 hg19
          have HX19_4 := nXq Ngr_14 hg19
          have HX19_5 := nXq RZ14_14 hg19
          have Ngy_19 := hKq Ngy_14 hb19
          have Ngr_19 := hKq Ngr_14 hb19
          have RZ14_19 := hKq RZ14_14 hb19
          have HF_19 := fTq HF_14 hb19
          have HL_19 := lT HL_14 hb19
          have RZ19_19 := zrq hz19
          clear hb19 hz19 hg19 hW19 HL_14 Ngy_14 Ngr_14 RZ14_14 HF_14
          simp only [oEI5, Act.put, zA, zB, zC]
          refine callW (i := 3) (oi := oEI3) rfl (by kernel_rfl) (by rfl) (exec_callL 25 [.tmp 8, .tmp 9] #[23, 23] rfl [vN y, vN y] rfl (CG25 _)) ((C1.out W19).mono ?_)
          rintro e20 W20 ⟨rfl, hb20⟩
          refine ⟨_, rfl, fun _ => hb20.mono HL_19.out, ?_⟩
          have Ngy_20 := hKq Ngy_19 hb20
          have Ngr_20 := hKq Ngr_19 hb20
          have RZ14_20 := hKq RZ14_19 hb20
          have RZ19_20 := hKq RZ19_19 hb20
          have HF_20 := fTq HF_19 hb20
          have HL_20 := lT HL_19 hb20
          clear hb20 HL_19 Ngy_19 Ngr_19 RZ14_19 RZ19_19 HF_19
          simp only [oEI3, Act.put, zA, zB, zC]
          refine storeW_F (i := 6) (oi := oEI6) rfl (by kernel_rfl) (by rfl) (.tmp 4) (.tmp 7) rfl (g14) 0 0 rfl [0] 1 rfl rfl RZ14_20.out (show 0 < 1 by omega) rfl ?_
          intro W21 hr21 hg21 hz21
          simp only [oEI6, Act.put, zA, zB, zC]
          have Ngy_21 := hGq Ngy_20 hg21 HX14_1
          have Ngr_21 := hGq Ngr_20 hg21 HX14_2
          have RZ14_21 : Hid (RAt W21 g14 [1]) := Lib.hid hr21
          have RZ19_21 := hGq RZ19_20 hg21 HX19_5
          have HF_21 := fBq HF_20 hg21 HG14 HLO3
          have HL_21 := lG HL_20 hg21
          clear hr21 hg21 hz21 HL_20 Ngy_20 Ngr_20 RZ14_20 RZ19_20 HF_20
          refine storeW_F (i := 7) (oi := oEI7) rfl (by kernel_rfl) (by rfl) (.tmp 5) (.tmp 10) rfl (g19) 0 0 rfl [0] yy rfl rfl RZ19_21.out (show 0 < 1 by omega) rfl ?_
          intro W22 hr22 hg22 hz22
          simp only [oEI7, Act.put, zA, zB, zC]
          have Ngy_22 := hGq Ngy_21 hg22 HX19_3
          have Ngr_22 := hGq Ngr_21 hg22 HX19_4
          have RZ14_22 := hGq RZ14_21 hg22 HX19_5
          have RZ19_22 : Hid (RAt W22 g19 [yy]) := Lib.hid hr22
          have HF_22 := fBq HF_21 hg22 HG19 HLO3
          have HL_22 := lG HL_21 hg22
          clear hr22 hg22 hz22 HL_21 Ngy_21 Ngr_21 RZ14_21 RZ19_21 HF_21
          refine doneW (by kernel_rfl) ⟨rfl, ?_⟩ _
          exact ⟨g14, g19, Ngy_22.out, Ngr_22.out, RZ14_22.out, RZ19_22.out, HG14.out, HG19.out, (by have := HX19_5.out; omega), HF_22.out, rfl⟩
      · refine wpOp_value (i := 5) (oi := oEI5) rfl (by rfl) (exec_alloc 23 rfl (.agg (zbs 32)) zero23 W4) ⟨fun _ => (below_alloc W4 _).mono HL_4.out, ?_⟩
        obtain ⟨W23, hW23, hb23, hz23⟩ := alloc_zero W4
        rw [← hW23]
        obtain ⟨g23, hg23⟩ : ∃ g, g = W4.heap.size := ⟨_, rfl⟩
        rw [← hg23] at hz23 ⊢
        have HG23 := gE hg23 HL_4
        have HX23_1 := nXq Ngy_4 hg23
        have HX23_2 := nXq Ngr_4 hg23
        have Ngy_23 := hKq Ngy_4 hb23
        have Ngr_23 := hKq Ngr_4 hb23
        have HF_23 := fTq HF_4 hb23
        have HL_23 := lT HL_4 hb23
        have RZ23_23 := zrq hz23
        clear hb23 hz23 hg23 hW23 HL_4 Ngy_4 Ngr_4 HF_4
        simp only [oEI5, Act.put, zA, zB, zC]
        refine eachW [3, 4] (by kernel_rfl) (by simp) ?_
        intro k hk
        simp only [zM, zN, or_false] at hk
        rcases hk with rfl | rfl
        · refine wpOp_call (i := 3) (oi := oEI3) rfl (by rfl) (exec_callL 25 [.tmp 8, .tmp 9] #[23, 23] rfl [vN y, vN y] rfl (CG25 _)) ((C1.out W23).mono ?_)
          rintro e24 W24 ⟨rfl, hb24⟩
          refine ⟨_, rfl, fun _ => hb24.mono HL_23.out, ?_⟩
          have Ngy_24 := hKq Ngy_23 hb24
          have Ngr_24 := hKq Ngr_23 hb24
          have RZ23_24 := hKq RZ23_23 hb24
          have HF_24 := fTq HF_23 hb24
          have HL_24 := lT HL_23 hb24
          clear hb24 HL_23 Ngy_23 Ngr_23 RZ23_23 HF_23
          simp only [oEI3, Act.put, zA, zB, zC]
          refine opW _ _ (i := 4) (oi := oEI4) rfl (by kernel_rfl) (by rfl) (exec_alloc 23 rfl (.agg (zbs 32)) zero23 W24) (fun _ => (below_alloc W24 _).mono HL_24.out) ?_
          obtain ⟨W25, hW25, hb25, hz25⟩ := alloc_zero W24
          rw [← hW25]
          obtain ⟨g25, hg25⟩ : ∃ g, g = W24.heap.size := ⟨_, rfl⟩
          rw [← hg25] at hz25 ⊢
          have HG25 := gE hg25 HL_24
          have HX25_3 := nXq Ngy_24 hg25
          have HX25_4 := nXq Ngr_24 hg25
          have HX25_5 := nXq RZ23_24 hg25
          have Ngy_25 := hKq Ngy_24 hb25
          have Ngr_25 := hKq Ngr_24 hb25
          have RZ23_25 := hKq RZ23_24 hb25
          have HF_25 := fTq HF_24 hb25
          have HL_25 := lT HL_24 hb25
          have RZ25_25 := zrq hz25
          clear hb25 hz25 hg25 hW25 HL_24 Ngy_24 Ngr_24 RZ23_24 HF_24
          simp only [oEI4, Act.put, zA, zB, zC]
          refine storeW_F (i := 6) (oi := oEI6) rfl (by kernel_rfl) (by rfl) (.tmp 4) (.tmp 7) rfl (g25) 0 0 rfl [0] 1 rfl rfl RZ25_25.out (show 0 < 1 by omega) rfl ?_
          intro W26 hr26 hg26 hz26
          simp only [oEI6, Act.put, zA, zB, zC]
          have Ngy_26 := hGq Ngy_25 hg26 HX25_3
          have Ngr_26 := hGq Ngr_25 hg26 HX25_4
          have RZ23_26 := hGq RZ23_25 hg26 HX25_5
          have RZ25_26 : Hid (RAt W26 g25 [1]) := Lib.hid hr26
          have HF_26 := fBq HF_25 hg26 HG25 HLO3
          have HL_26 := lG HL_25 hg26
          clear hr26 hg26 hz26 HL_25 Ngy_25 Ngr_25 RZ23_25 RZ25_25 HF_25
          refine storeW_F (i := 7) (oi := oEI7) rfl (by kernel_rfl) (by rfl) (.tmp 5) (.tmp 10) rfl (g23) 0 0 rfl [0] yy rfl rfl RZ23_26.out (show 0 < 1 by omega) rfl ?_
          intro W27 hr27 hg27 hz27
          simp only [oEI7, Act.put, zA, zB, zC]
          have Ngy_27 := hGq Ngy_26 hg27 HX23_1
          have Ngr_27 := hGq Ngr_26 hg27 HX23_2
          have RZ23_27 : Hid (RAt W27 g23 [yy]) := Lib.hid hr27
          have RZ25_27 := hGq RZ25_26 hg27 HX25_5
          have HF_27 := fBq HF_26 hg27 HG23 HLO3
          have HL_27 := lG HL_26 hg27
          clear hr27 hg27 hz27 HL_26 Ngy_26 Ngr_26 RZ23_26 RZ25_26 HF_26
          refine doneW (by kernel_rfl) ⟨rfl, ?_⟩ _
          exact ⟨g25, g23, Ngy_27.out, Ngr_27.out, RZ25_27.out, RZ23_27.out, HG25.out, HG23.out, (by have := HX25_5.out; omega), HF_27.out, rfl⟩
        · refine wpOp_value (i := 4) (oi := oEI4) rfl (by rfl) (exec_alloc 23 rfl (.agg (zbs 32)) zero23 W23) ⟨fun _ => (below_alloc W23 _).mono HL_23.out, ?_⟩
          obtain ⟨W28, hW28, hb28, hz28⟩ := alloc_zero W23
          rw [← hW28]
          obtain ⟨g28, hg28⟩ : ∃ g, g = W23.heap.size := ⟨_, rfl⟩
          rw [← hg28] at hz28 ⊢
          have HG28 := gE hg28 HL_23
          have HX28_3 := nXq Ngy_23 hg28
          have HX28_4 := nXq Ngr_23 hg28
          have HX28_5 := nXq RZ23_23 hg28
          have Ngy_28 := hKq Ngy_23 hb28
          have Ngr_28 := hKq Ngr_23 hb28
          have RZ23_28 := hKq RZ23_23 hb28
          have HF_28 := fTq HF_23 hb28
          have HL_28 := lT HL_23 hb28
          have RZ28_28 := zrq hz28
          clear hb28 hz28 hg28 hW28 HL_23 Ngy_23 Ngr_23 RZ23_23 HF_23
          simp only [oEI4, Act.put, zA, zB, zC]
          refine callW (i := 3) (oi := oEI3) rfl (by kernel_rfl) (by rfl) (exec_callL 25 [.tmp 8, .tmp 9] #[23, 23] rfl [vN y, vN y] rfl (CG25 _)) ((C1.out W28).mono ?_)
          rintro e29 W29 ⟨rfl, hb29⟩
          refine ⟨_, rfl, fun _ => hb29.mono HL_28.out, ?_⟩
          have Ngy_29 := hKq Ngy_28 hb29
          have Ngr_29 := hKq Ngr_28 hb29
          have RZ23_29 := hKq RZ23_28 hb29
          have RZ28_29 := hKq RZ28_28 hb29
          have HF_29 := fTq HF_28 hb29
          have HL_29 := lT HL_28 hb29
          clear hb29 HL_28 Ngy_28 Ngr_28 RZ23_28 RZ28_28 HF_28
          simp only [oEI3, Act.put, zA, zB, zC]
          refine storeW_F (i := 6) (oi := oEI6) rfl (by kernel_rfl) (by rfl) (.tmp 4) (.tmp 7) rfl (g28) 0 0 rfl [0] 1 rfl rfl RZ28_29.out (show 0 < 1 by omega) rfl ?_
          intro W30 hr30 hg30 hz30
          simp only [oEI6, Act.put, zA, zB, zC]
          have Ngy_30 := hGq Ngy_29 hg30 HX28_3
          have Ngr_30 := hGq Ngr_29 hg30 HX28_4
          have RZ23_30 := hGq RZ23_29 hg30 HX28_5
          have RZ28_30 : Hid (RAt W30 g28 [1]) := Lib.hid hr30
          have HF_30 := fBq HF_29 hg30 HG28 HLO3
          have HL_30 := lG HL_29 hg30
          clear hr30 hg30 hz30 HL_29 Ngy_29 Ngr_29 RZ23_29 RZ28_29 HF_29
          refine storeW_F (i := 7) (oi := oEI7) rfl (by kernel_rfl) (by rfl) (.tmp 5) (.tmp 10) rfl (g23) 0 0 rfl [0] yy rfl rfl RZ23_30.out (show 0 < 1 by omega) rfl ?_
          intro W31 hr31 hg31 hz31
          simp only [oEI7, Act.put, zA, zB, zC]
          have Ngy_31 := hGq Ngy_30 hg31 HX23_1
          have Ngr_31 := hGq Ngr_30 hg31 HX23_2
          have RZ23_31 : Hid (RAt W31 g23 [yy]) := Lib.hid hr31
          have RZ28_31 := hGq RZ28_30 hg31 HX28_5
          have HF_31 := fBq HF_30 hg31 HG23 HLO3
          have HL_31 := lG HL_30 hg31
          clear hr31 hg31 hz31 HL_30 Ngy_30 Ngr_30 RZ23_30 RZ28_30 HF_30
          refine doneW (by kernel_rfl) ⟨rfl, ?_⟩ _
          exact ⟨g28, g23, Ngy_31.out, Ngr_31.out, RZ28_31.out, RZ23_31.out, HG28.out, HG23.out, (by have := HX28_5.out; omega), HF_31.out, rfl⟩
    · refine wpOp_value (i := 4) (oi := oEI4) rfl (by rfl) (exec_alloc 23 rfl (.agg (zbs 32)) zero23 D3) ⟨fun _ => (below_alloc D3 _).mono HL_3.out, ?_⟩
      obtain ⟨W32, hW32, hb32, hz32⟩ := alloc_zero D3
      rw [← hW32]
      obtain ⟨g32, hg32⟩ : ∃ g, g = D3.heap.size := ⟨_, rfl⟩
      rw [← hg32] at hz32 ⊢
      have HG32 := gE hg32 HL_3
      have HX32_1 := nXq Ngy_3 hg32
      have HX32_2 := nXq Ngr_3 hg32
      have Ngy_32 := hKq Ngy_3 hb32
      have Ngr_32 := hKq Ngr_3 hb32
      have HF_32 := fTq HF_3 hb32
      have HL_32 := lT HL_3 hb32
      have RZ32_32 := zrq hz32
      clear hb32 hz32 hg32 hW32 HL_3 Ngy_3 Ngr_3 HF_3
      simp only [oEI4, Act.put, zA, zB, zC]
      refine eachW [0, 5] (by kernel_rfl) (by simp) ?_
      intro k hk
      simp only [zM, zN, or_false] at hk
      rcases hk with rfl | rfl
      · refine wpOp_call (i := 0) (oi := oEI2) rfl (by rfl) (exec_callL 17 [.const (.int .u64 1)] #[24] rfl [.int .u64 1] rfl (CG17 _)) ((C0.out W32).mono ?_)
        rintro e33 W33 ⟨rfl, hb33⟩
        refine ⟨_, rfl, fun _ => hb33.mono HL_32.out, ?_⟩
        have Ngy_33 := hKq Ngy_32 hb33
        have Ngr_33 := hKq Ngr_32 hb33
        have RZ32_33 := hKq RZ32_32 hb33
        have HF_33 := fTq HF_32 hb33
        have HL_33 := lT HL_32 hb33
        clear hb33 HL_32 Ngy_32 Ngr_32 RZ32_32 HF_32
        simp only [oEI2, Act.put, zA, zB, zC]
        refine eachW [3, 5] (by kernel_rfl) (by simp) ?_
        intro k hk
        simp only [zM, zN, or_false] at hk
        rcases hk with rfl | rfl
        · refine wpOp_call (i := 3) (oi := oEI3) rfl (by rfl) (exec_callL 25 [.tmp 8, .tmp 9] #[23, 23] rfl [vN y, vN y] rfl (CG25 _)) ((C1.out W33).mono ?_)
          rintro e34 W34 ⟨rfl, hb34⟩
          refine ⟨_, rfl, fun _ => hb34.mono HL_33.out, ?_⟩
          have Ngy_34 := hKq Ngy_33 hb34
          have Ngr_34 := hKq Ngr_33 hb34
          have RZ32_34 := hKq RZ32_33 hb34
          have HF_34 := fTq HF_33 hb34
          have HL_34 := lT HL_33 hb34
          clear hb34 HL_33 Ngy_33 Ngr_33 RZ32_33 HF_33
          simp only [oEI3, Act.put, zA, zB, zC]
          refine opW _ _ (i := 5) (oi := oEI5) rfl (by kernel_rfl) (by rfl) (exec_alloc 23 rfl (.agg (zbs 32)) zero23 W34) (fun _ => (below_alloc W34 _).mono HL_34.out) ?_
          obtain ⟨W35, hW35, hb35, hz35⟩ := alloc_zero W34
          rw [← hW35]
          obtain ⟨g35, hg35⟩ : ∃ g, g = W34.heap.size := ⟨_, rfl⟩
          rw [← hg35] at hz35 ⊢
          have HG35 := gE hg35 HL_34
          have HX35_3 := nXq Ngy_34 hg35
          have HX35_4 := nXq Ngr_34 hg35
          have HX35_5 := nXq RZ32_34 hg35
          have Ngy_35 := hKq Ngy_34 hb35
          have Ngr_35 := hKq Ngr_34 hb35
          have RZ32_35 := hKq RZ32_34 hb35
          have HF_35 := fTq HF_34 hb35
          have HL_35 := lT HL_34 hb35
          have RZ35_35 := zrq hz35
          clear hb35 hz35 hg35 hW35 HL_34 Ngy_34 Ngr_34 RZ32_34 HF_34
          simp only [oEI5, Act.put, zA, zB, zC]
          refine storeW_F (i := 6) (oi := oEI6) rfl (by kernel_rfl) (by rfl) (.tmp 4) (.tmp 7) rfl (g32) 0 0 rfl [0] 1 rfl rfl RZ32_35.out (show 0 < 1 by omega) rfl ?_
          intro W36 hr36 hg36 hz36
          simp only [oEI6, Act.put, zA, zB, zC]
          have Ngy_36 := hGq Ngy_35 hg36 HX32_1
          have Ngr_36 := hGq Ngr_35 hg36 HX32_2
          have RZ32_36 : Hid (RAt W36 g32 [1]) := Lib.hid hr36
          have RZ35_36 := hGq RZ35_35 hg36 HX35_5
          have HF_36 := fBq HF_35 hg36 HG32 HLO3
          have HL_36 := lG HL_35 hg36
          clear hr36 hg36 hz36 HL_35 Ngy_35 Ngr_35 RZ32_35 RZ35_35 HF_35
          refine storeW_F (i := 7) (oi := oEI7) rfl (by kernel_rfl) (by rfl) (.tmp 5) (.tmp 10) rfl (g35) 0 0 rfl [0] yy rfl rfl RZ35_36.out (show 0 < 1 by omega) rfl ?_
          intro W37 hr37 hg37 hz37
          simp only [oEI7, Act.put, zA, zB, zC]
          have Ngy_37 := hGq Ngy_36 hg37 HX35_3
          have Ngr_37 := hGq Ngr_36 hg37 HX35_4
          have RZ32_37 := hGq RZ32_36 hg37 HX35_5
          have RZ35_37 : Hid (RAt W37 g35 [yy]) := Lib.hid hr37
          have HF_37 := fBq HF_36 hg37 HG35 HLO3
          have HL_37 := lG HL_36 hg37
          clear hr37 hg37 hz37 HL_36 Ngy_36 Ngr_36 RZ32_36 RZ35_36 HF_36
          refine doneW (by kernel_rfl) ⟨rfl, ?_⟩ _
          exact ⟨g32, g35, Ngy_37.out, Ngr_37.out, RZ32_37.out, RZ35_37.out, HG32.out, HG35.out, (by have := HX35_5.out; omega), HF_37.out, rfl⟩
        · refine wpOp_value (i := 5) (oi := oEI5) rfl (by rfl) (exec_alloc 23 rfl (.agg (zbs 32)) zero23 W33) ⟨fun _ => (below_alloc W33 _).mono HL_33.out, ?_⟩
          obtain ⟨W38, hW38, hb38, hz38⟩ := alloc_zero W33
          rw [← hW38]
          obtain ⟨g38, hg38⟩ : ∃ g, g = W33.heap.size := ⟨_, rfl⟩
          rw [← hg38] at hz38 ⊢
          have HG38 := gE hg38 HL_33
          have HX38_3 := nXq Ngy_33 hg38
          have HX38_4 := nXq Ngr_33 hg38
          have HX38_5 := nXq RZ32_33 hg38
          have Ngy_38 := hKq Ngy_33 hb38
          have Ngr_38 := hKq Ngr_33 hb38
          have RZ32_38 := hKq RZ32_33 hb38
          have HF_38 := fTq HF_33 hb38
          have HL_38 := lT HL_33 hb38
          have RZ38_38 := zrq hz38
          clear hb38 hz38 hg38 hW38 HL_33 Ngy_33 Ngr_33 RZ32_33 HF_33
          simp only [oEI5, Act.put, zA, zB, zC]
          refine callW (i := 3) (oi := oEI3) rfl (by kernel_rfl) (by rfl) (exec_callL 25 [.tmp 8, .tmp 9] #[23, 23] rfl [vN y, vN y] rfl (CG25 _)) ((C1.out W38).mono ?_)
          rintro e39 W39 ⟨rfl, hb39⟩
          refine ⟨_, rfl, fun _ => hb39.mono HL_38.out, ?_⟩
          have Ngy_39 := hKq Ngy_38 hb39
          have Ngr_39 := hKq Ngr_38 hb39
          have RZ32_39 := hKq RZ32_38 hb39
          have RZ38_39 := hKq RZ38_38 hb39
          have HF_39 := fTq HF_38 hb39
          have HL_39 := lT HL_38 hb39
          clear hb39 HL_38 Ngy_38 Ngr_38 RZ32_38 RZ38_38 HF_38
          simp only [oEI3, Act.put, zA, zB, zC]
          refine storeW_F (i := 6) (oi := oEI6) rfl (by kernel_rfl) (by rfl) (.tmp 4) (.tmp 7) rfl (g32) 0 0 rfl [0] 1 rfl rfl RZ32_39.out (show 0 < 1 by omega) rfl ?_
          intro W40 hr40 hg40 hz40
          simp only [oEI6, Act.put, zA, zB, zC]
          have Ngy_40 := hGq Ngy_39 hg40 HX32_1
          have Ngr_40 := hGq Ngr_39 hg40 HX32_2
          have RZ32_40 : Hid (RAt W40 g32 [1]) := Lib.hid hr40
          have RZ38_40 := hGq RZ38_39 hg40 HX38_5
          have HF_40 := fBq HF_39 hg40 HG32 HLO3
          have HL_40 := lG HL_39 hg40
          clear hr40 hg40 hz40 HL_39 Ngy_39 Ngr_39 RZ32_39 RZ38_39 HF_39
          refine storeW_F (i := 7) (oi := oEI7) rfl (by kernel_rfl) (by rfl) (.tmp 5) (.tmp 10) rfl (g38) 0 0 rfl [0] yy rfl rfl RZ38_40.out (show 0 < 1 by omega) rfl ?_
          intro W41 hr41 hg41 hz41
          simp only [oEI7, Act.put, zA, zB, zC]
          have Ngy_41 := hGq Ngy_40 hg41 HX38_3
          have Ngr_41 := hGq Ngr_40 hg41 HX38_4
          have RZ32_41 := hGq RZ32_40 hg41 HX38_5
          have RZ38_41 : Hid (RAt W41 g38 [yy]) := Lib.hid hr41
          have HF_41 := fBq HF_40 hg41 HG38 HLO3
          have HL_41 := lG HL_40 hg41
          clear hr41 hg41 hz41 HL_40 Ngy_40 Ngr_40 RZ32_40 RZ38_40 HF_40
          refine doneW (by kernel_rfl) ⟨rfl, ?_⟩ _
          exact ⟨g32, g38, Ngy_41.out, Ngr_41.out, RZ32_41.out, RZ38_41.out, HG32.out, HG38.out, (by have := HX38_5.out; omega), HF_41.out, rfl⟩
      · refine wpOp_value (i := 5) (oi := oEI5) rfl (by rfl) (exec_alloc 23 rfl (.agg (zbs 32)) zero23 W32) ⟨fun _ => (below_alloc W32 _).mono HL_32.out, ?_⟩
        obtain ⟨W42, hW42, hb42, hz42⟩ := alloc_zero W32
        rw [← hW42]
        obtain ⟨g42, hg42⟩ : ∃ g, g = W32.heap.size := ⟨_, rfl⟩
        rw [← hg42] at hz42 ⊢
        have HG42 := gE hg42 HL_32
        have HX42_3 := nXq Ngy_32 hg42
        have HX42_4 := nXq Ngr_32 hg42
        have HX42_5 := nXq RZ32_32 hg42
        have Ngy_42 := hKq Ngy_32 hb42
        have Ngr_42 := hKq Ngr_32 hb42
        have RZ32_42 := hKq RZ32_32 hb42
        have HF_42 := fTq HF_32 hb42
        have HL_42 := lT HL_32 hb42
        have RZ42_42 := zrq hz42
        clear hb42 hz42 hg42 hW42 HL_32 Ngy_32 Ngr_32 RZ32_32 HF_32
        simp only [oEI5, Act.put, zA, zB, zC]
        refine callW (i := 0) (oi := oEI2) rfl (by kernel_rfl) (by rfl) (exec_callL 17 [.const (.int .u64 1)] #[24] rfl [.int .u64 1] rfl (CG17 _)) ((C0.out W42).mono ?_)
        rintro e43 W43 ⟨rfl, hb43⟩
        refine ⟨_, rfl, fun _ => hb43.mono HL_42.out, ?_⟩
        have Ngy_43 := hKq Ngy_42 hb43
        have Ngr_43 := hKq Ngr_42 hb43
        have RZ32_43 := hKq RZ32_42 hb43
        have RZ42_43 := hKq RZ42_42 hb43
        have HF_43 := fTq HF_42 hb43
        have HL_43 := lT HL_42 hb43
        clear hb43 HL_42 Ngy_42 Ngr_42 RZ32_42 RZ42_42 HF_42
        simp only [oEI2, Act.put, zA, zB, zC]
        refine callW (i := 3) (oi := oEI3) rfl (by kernel_rfl) (by rfl) (exec_callL 25 [.tmp 8, .tmp 9] #[23, 23] rfl [vN y, vN y] rfl (CG25 _)) ((C1.out W43).mono ?_)
        rintro e44 W44 ⟨rfl, hb44⟩
        refine ⟨_, rfl, fun _ => hb44.mono HL_43.out, ?_⟩
        have Ngy_44 := hKq Ngy_43 hb44
        have Ngr_44 := hKq Ngr_43 hb44
        have RZ32_44 := hKq RZ32_43 hb44
        have RZ42_44 := hKq RZ42_43 hb44
        have HF_44 := fTq HF_43 hb44
        have HL_44 := lT HL_43 hb44
        clear hb44 HL_43 Ngy_43 Ngr_43 RZ32_43 RZ42_43 HF_43
        simp only [oEI3, Act.put, zA, zB, zC]
        refine storeW_F (i := 6) (oi := oEI6) rfl (by kernel_rfl) (by rfl) (.tmp 4) (.tmp 7) rfl (g32) 0 0 rfl [0] 1 rfl rfl RZ32_44.out (show 0 < 1 by omega) rfl ?_
        intro W45 hr45 hg45 hz45
        simp only [oEI6, Act.put, zA, zB, zC]
        have Ngy_45 := hGq Ngy_44 hg45 HX32_1
        have Ngr_45 := hGq Ngr_44 hg45 HX32_2
        have RZ32_45 : Hid (RAt W45 g32 [1]) := Lib.hid hr45
        have RZ42_45 := hGq RZ42_44 hg45 HX42_5
        have HF_45 := fBq HF_44 hg45 HG32 HLO3
        have HL_45 := lG HL_44 hg45
        clear hr45 hg45 hz45 HL_44 Ngy_44 Ngr_44 RZ32_44 RZ42_44 HF_44
        refine storeW_F (i := 7) (oi := oEI7) rfl (by kernel_rfl) (by rfl) (.tmp 5) (.tmp 10) rfl (g42) 0 0 rfl [0] yy rfl rfl RZ42_45.out (show 0 < 1 by omega) rfl ?_
        intro W46 hr46 hg46 hz46
        simp only [oEI7, Act.put, zA, zB, zC]
        have Ngy_46 := hGq Ngy_45 hg46 HX42_3
        have Ngr_46 := hGq Ngr_45 hg46 HX42_4
        have RZ32_46 := hGq RZ32_45 hg46 HX42_5
        have RZ42_46 : Hid (RAt W46 g42 [yy]) := Lib.hid hr46
        have HF_46 := fBq HF_45 hg46 HG42 HLO3
        have HL_46 := lG HL_45 hg46
        clear hr46 hg46 hz46 HL_45 Ngy_45 Ngr_45 RZ32_45 RZ42_45 HF_45
        refine doneW (by kernel_rfl) ⟨rfl, ?_⟩ _
        exact ⟨g32, g42, Ngy_46.out, Ngr_46.out, RZ32_46.out, RZ42_46.out, HG32.out, HG42.out, (by have := HX42_5.out; omega), HF_46.out, rfl⟩
    · refine wpOp_value (i := 5) (oi := oEI5) rfl (by rfl) (exec_alloc 23 rfl (.agg (zbs 32)) zero23 D3) ⟨fun _ => (below_alloc D3 _).mono HL_3.out, ?_⟩
      obtain ⟨W47, hW47, hb47, hz47⟩ := alloc_zero D3
      rw [← hW47]
      obtain ⟨g47, hg47⟩ : ∃ g, g = D3.heap.size := ⟨_, rfl⟩
      rw [← hg47] at hz47 ⊢
      have HG47 := gE hg47 HL_3
      have HX47_1 := nXq Ngy_3 hg47
      have HX47_2 := nXq Ngr_3 hg47
      have Ngy_47 := hKq Ngy_3 hb47
      have Ngr_47 := hKq Ngr_3 hb47
      have HF_47 := fTq HF_3 hb47
      have HL_47 := lT HL_3 hb47
      have RZ47_47 := zrq hz47
      clear hb47 hz47 hg47 hW47 HL_3 Ngy_3 Ngr_3 HF_3
      simp only [oEI5, Act.put, zA, zB, zC]
      refine eachW [0, 4] (by kernel_rfl) (by simp) ?_
      intro k hk
      simp only [zM, zN, or_false] at hk
      rcases hk with rfl | rfl
      · refine wpOp_call (i := 0) (oi := oEI2) rfl (by rfl) (exec_callL 17 [.const (.int .u64 1)] #[24] rfl [.int .u64 1] rfl (CG17 _)) ((C0.out W47).mono ?_)
        rintro e48 W48 ⟨rfl, hb48⟩
        refine ⟨_, rfl, fun _ => hb48.mono HL_47.out, ?_⟩
        have Ngy_48 := hKq Ngy_47 hb48
        have Ngr_48 := hKq Ngr_47 hb48
        have RZ47_48 := hKq RZ47_47 hb48
        have HF_48 := fTq HF_47 hb48
        have HL_48 := lT HL_47 hb48
        clear hb48 HL_47 Ngy_47 Ngr_47 RZ47_47 HF_47
        simp only [oEI2, Act.put, zA, zB, zC]
        refine eachW [3, 4] (by kernel_rfl) (by simp) ?_
        intro k hk
        simp only [zM, zN, or_false] at hk
        rcases hk with rfl | rfl
        · refine wpOp_call (i := 3) (oi := oEI3) rfl (by rfl) (exec_callL 25 [.tmp 8, .tmp 9] #[23, 23] rfl [vN y, vN y] rfl (CG25 _)) ((C1.out W48).mono ?_)
          rintro e49 W49 ⟨rfl, hb49⟩
          refine ⟨_, rfl, fun _ => hb49.mono HL_48.out, ?_⟩
          have Ngy_49 := hKq Ngy_48 hb49
          have Ngr_49 := hKq Ngr_48 hb49
          have RZ47_49 := hKq RZ47_48 hb49
          have HF_49 := fTq HF_48 hb49
          have HL_49 := lT HL_48 hb49
          clear hb49 HL_48 Ngy_48 Ngr_48 RZ47_48 HF_48
          simp only [oEI3, Act.put, zA, zB, zC]
          refine opW _ _ (i := 4) (oi := oEI4) rfl (by kernel_rfl) (by rfl) (exec_alloc 23 rfl (.agg (zbs 32)) zero23 W49) (fun _ => (below_alloc W49 _).mono HL_49.out) ?_
          obtain ⟨W50, hW50, hb50, hz50⟩ := alloc_zero W49
          rw [← hW50]
          obtain ⟨g50, hg50⟩ : ∃ g, g = W49.heap.size := ⟨_, rfl⟩
          rw [← hg50] at hz50 ⊢
          have HG50 := gE hg50 HL_49
          have HX50_3 := nXq Ngy_49 hg50
          have HX50_4 := nXq Ngr_49 hg50
          have HX50_5 := nXq RZ47_49 hg50
          have Ngy_50 := hKq Ngy_49 hb50
          have Ngr_50 := hKq Ngr_49 hb50
          have RZ47_50 := hKq RZ47_49 hb50
          have HF_50 := fTq HF_49 hb50
          have HL_50 := lT HL_49 hb50
          have RZ50_50 := zrq hz50
          clear hb50 hz50 hg50 hW50 HL_49 Ngy_49 Ngr_49 RZ47_49 HF_49
          simp only [oEI4, Act.put, zA, zB, zC]
          refine storeW_F (i := 6) (oi := oEI6) rfl (by kernel_rfl) (by rfl) (.tmp 4) (.tmp 7) rfl (g50) 0 0 rfl [0] 1 rfl rfl RZ50_50.out (show 0 < 1 by omega) rfl ?_
          intro W51 hr51 hg51 hz51
          simp only [oEI6, Act.put, zA, zB, zC]
          have Ngy_51 := hGq Ngy_50 hg51 HX50_3
          have Ngr_51 := hGq Ngr_50 hg51 HX50_4
          have RZ47_51 := hGq RZ47_50 hg51 HX50_5
          have RZ50_51 : Hid (RAt W51 g50 [1]) := Lib.hid hr51
          have HF_51 := fBq HF_50 hg51 HG50 HLO3
          have HL_51 := lG HL_50 hg51
          clear hr51 hg51 hz51 HL_50 Ngy_50 Ngr_50 RZ47_50 RZ50_50 HF_50
          refine storeW_F (i := 7) (oi := oEI7) rfl (by kernel_rfl) (by rfl) (.tmp 5) (.tmp 10) rfl (g47) 0 0 rfl [0] yy rfl rfl RZ47_51.out (show 0 < 1 by omega) rfl ?_
          intro W52 hr52 hg52 hz52
          simp only [oEI7, Act.put, zA, zB, zC]
          have Ngy_52 := hGq Ngy_51 hg52 HX47_1
          have Ngr_52 := hGq Ngr_51 hg52 HX47_2
          have RZ47_52 : Hid (RAt W52 g47 [yy]) := Lib.hid hr52
          have RZ50_52 := hGq RZ50_51 hg52 HX50_5
          have HF_52 := fBq HF_51 hg52 HG47 HLO3
          have HL_52 := lG HL_51 hg52
          clear hr52 hg52 hz52 HL_51 Ngy_51 Ngr_51 RZ47_51 RZ50_51 HF_51
          refine doneW (by kernel_rfl) ⟨rfl, ?_⟩ _
          exact ⟨g50, g47, Ngy_52.out, Ngr_52.out, RZ50_52.out, RZ47_52.out, HG50.out, HG47.out, (by have := HX50_5.out; omega), HF_52.out, rfl⟩
        · refine wpOp_value (i := 4) (oi := oEI4) rfl (by rfl) (exec_alloc 23 rfl (.agg (zbs 32)) zero23 W48) ⟨fun _ => (below_alloc W48 _).mono HL_48.out, ?_⟩
          obtain ⟨W53, hW53, hb53, hz53⟩ := alloc_zero W48
          rw [← hW53]
          obtain ⟨g53, hg53⟩ : ∃ g, g = W48.heap.size := ⟨_, rfl⟩
          rw [← hg53] at hz53 ⊢
          have HG53 := gE hg53 HL_48
          have HX53_3 := nXq Ngy_48 hg53
          have HX53_4 := nXq Ngr_48 hg53
          have HX53_5 := nXq RZ47_48 hg53
          have Ngy_53 := hKq Ngy_48 hb53
          have Ngr_53 := hKq Ngr_48 hb53
          have RZ47_53 := hKq RZ47_48 hb53
          have HF_53 := fTq HF_48 hb53
          have HL_53 := lT HL_48 hb53
          have RZ53_53 := zrq hz53
          clear hb53 hz53 hg53 hW53 HL_48 Ngy_48 Ngr_48 RZ47_48 HF_48
          simp only [oEI4, Act.put, zA, zB, zC]
          refine callW (i := 3) (oi := oEI3) rfl (by kernel_rfl) (by rfl) (exec_callL 25 [.tmp 8, .tmp 9] #[23, 23] rfl [vN y, vN y] rfl (CG25 _)) ((C1.out W53).mono ?_)
          rintro e54 W54 ⟨rfl, hb54⟩
          refine ⟨_, rfl, fun _ => hb54.mono HL_53.out, ?_⟩
          have Ngy_54 := hKq Ngy_53 hb54
          have Ngr_54 := hKq Ngr_53 hb54
          have RZ47_54 := hKq RZ47_53 hb54
          have RZ53_54 := hKq RZ53_53 hb54
          have HF_54 := fTq HF_53 hb54
          have HL_54 := lT HL_53 hb54
          clear hb54 HL_53 Ngy_53 Ngr_53 RZ47_53 RZ53_53 HF_53
          simp only [oEI3, Act.put, zA, zB, zC]
          refine storeW_F (i := 6) (oi := oEI6) rfl (by kernel_rfl) (by rfl) (.tmp 4) (.tmp 7) rfl (g53) 0 0 rfl [0] 1 rfl rfl RZ53_54.out (show 0 < 1 by omega) rfl ?_
          intro W55 hr55 hg55 hz55
          simp only [oEI6, Act.put, zA, zB, zC]
          have Ngy_55 := hGq Ngy_54 hg55 HX53_3
          have Ngr_55 := hGq Ngr_54 hg55 HX53_4
          have RZ47_55 := hGq RZ47_54 hg55 HX53_5
          have RZ53_55 : Hid (RAt W55 g53 [1]) := Lib.hid hr55
          have HF_55 := fBq HF_54 hg55 HG53 HLO3
          have HL_55 := lG HL_54 hg55
          clear hr55 hg55 hz55 HL_54 Ngy_54 Ngr_54 RZ47_54 RZ53_54 HF_54
          refine storeW_F (i := 7) (oi := oEI7) rfl (by kernel_rfl) (by rfl) (.tmp 5) (.tmp 10) rfl (g47) 0 0 rfl [0] yy rfl rfl RZ47_55.out (show 0 < 1 by omega) rfl ?_
          intro W56 hr56 hg56 hz56
          simp only [oEI7, Act.put, zA, zB, zC]
          have Ngy_56 := hGq Ngy_55 hg56 HX47_1
          have Ngr_56 := hGq Ngr_55 hg56 HX47_2
          have RZ47_56 : Hid (RAt W56 g47 [yy]) := Lib.hid hr56
          have RZ53_56 := hGq RZ53_55 hg56 HX53_5
          have HF_56 := fBq HF_55 hg56 HG47 HLO3
          have HL_56 := lG HL_55 hg56
          clear hr56 hg56 hz56 HL_55 Ngy_55 Ngr_55 RZ47_55 RZ53_55 HF_55
          refine doneW (by kernel_rfl) ⟨rfl, ?_⟩ _
          exact ⟨g53, g47, Ngy_56.out, Ngr_56.out, RZ53_56.out, RZ47_56.out, HG53.out, HG47.out, (by have := HX53_5.out; omega), HF_56.out, rfl⟩
      · refine wpOp_value (i := 4) (oi := oEI4) rfl (by rfl) (exec_alloc 23 rfl (.agg (zbs 32)) zero23 W47) ⟨fun _ => (below_alloc W47 _).mono HL_47.out, ?_⟩
        obtain ⟨W57, hW57, hb57, hz57⟩ := alloc_zero W47
        rw [← hW57]
        obtain ⟨g57, hg57⟩ : ∃ g, g = W47.heap.size := ⟨_, rfl⟩
        rw [← hg57] at hz57 ⊢
        have HG57 := gE hg57 HL_47
        have HX57_3 := nXq Ngy_47 hg57
        have HX57_4 := nXq Ngr_47 hg57
        have HX57_5 := nXq RZ47_47 hg57
        have Ngy_57 := hKq Ngy_47 hb57
        have Ngr_57 := hKq Ngr_47 hb57
        have RZ47_57 := hKq RZ47_47 hb57
        have HF_57 := fTq HF_47 hb57
        have HL_57 := lT HL_47 hb57
        have RZ57_57 := zrq hz57
        clear hb57 hz57 hg57 hW57 HL_47 Ngy_47 Ngr_47 RZ47_47 HF_47
        simp only [oEI4, Act.put, zA, zB, zC]
        refine callW (i := 0) (oi := oEI2) rfl (by kernel_rfl) (by rfl) (exec_callL 17 [.const (.int .u64 1)] #[24] rfl [.int .u64 1] rfl (CG17 _)) ((C0.out W57).mono ?_)
        rintro e58 W58 ⟨rfl, hb58⟩
        refine ⟨_, rfl, fun _ => hb58.mono HL_57.out, ?_⟩
        have Ngy_58 := hKq Ngy_57 hb58
        have Ngr_58 := hKq Ngr_57 hb58
        have RZ47_58 := hKq RZ47_57 hb58
        have RZ57_58 := hKq RZ57_57 hb58
        have HF_58 := fTq HF_57 hb58
        have HL_58 := lT HL_57 hb58
        clear hb58 HL_57 Ngy_57 Ngr_57 RZ47_57 RZ57_57 HF_57
        simp only [oEI2, Act.put, zA, zB, zC]
        refine callW (i := 3) (oi := oEI3) rfl (by kernel_rfl) (by rfl) (exec_callL 25 [.tmp 8, .tmp 9] #[23, 23] rfl [vN y, vN y] rfl (CG25 _)) ((C1.out W58).mono ?_)
        rintro e59 W59 ⟨rfl, hb59⟩
        refine ⟨_, rfl, fun _ => hb59.mono HL_58.out, ?_⟩
        have Ngy_59 := hKq Ngy_58 hb59
        have Ngr_59 := hKq Ngr_58 hb59
        have RZ47_59 := hKq RZ47_58 hb59
        have RZ57_59 := hKq RZ57_58 hb59
        have HF_59 := fTq HF_58 hb59
        have HL_59 := lT HL_58 hb59
        clear hb59 HL_58 Ngy_58 Ngr_58 RZ47_58 RZ57_58 HF_58
        simp only [oEI3, Act.put, zA, zB, zC]
        refine storeW_F (i := 6) (oi := oEI6) rfl (by kernel_rfl) (by rfl) (.tmp 4) (.tmp 7) rfl (g57) 0 0 rfl [0] 1 rfl rfl RZ57_59.out (show 0 < 1 by omega) rfl ?_
        intro W60 hr60 hg60 hz60
        simp only [oEI6, Act.put, zA, zB, zC]
        have Ngy_60 := hGq Ngy_59 hg60 HX57_3
        have Ngr_60 := hGq Ngr_59 hg60 HX57_4
        have RZ47_60 := hGq RZ47_59 hg60 HX57_5
        have RZ57_60 : Hid (RAt W60 g57 [1]) := Lib.hid hr60
        have HF_60 := fBq HF_59 hg60 HG57 HLO3
        have HL_60 := lG HL_59 hg60
        clear hr60 hg60 hz60 HL_59 Ngy_59 Ngr_59 RZ47_59 RZ57_59 HF_59
        refine storeW_F (i := 7) (oi := oEI7) rfl (by kernel_rfl) (by rfl) (.tmp 5) (.tmp 10) rfl (g47) 0 0 rfl [0] yy rfl rfl RZ47_60.out (show 0 < 1 by omega) rfl ?_
        intro W61 hr61 hg61 hz61
        simp only [oEI7, Act.put, zA, zB, zC]
        have Ngy_61 := hGq Ngy_60 hg61 HX47_1
        have Ngr_61 := hGq Ngr_60 hg61 HX47_2
        have RZ47_61 : Hid (RAt W61 g47 [yy]) := Lib.hid hr61
        have RZ57_61 := hGq RZ57_60 hg61 HX57_5
        have HF_61 := fBq HF_60 hg61 HG47 HLO3
        have HL_61 := lG HL_60 hg61
        clear hr61 hg61 hz61 HL_60 Ngy_60 Ngr_60 RZ47_60 RZ57_60 HF_60
        refine doneW (by kernel_rfl) ⟨rfl, ?_⟩ _
        exact ⟨g57, g47, Ngy_61.out, Ngr_61.out, RZ57_61.out, RZ47_61.out, HG57.out, HG47.out, (by have := HX57_5.out; omega), HF_61.out, rfl⟩
  rintro a' v62 ⟨a3_0, a3_1, h0, h1, h2, h3, k0, k1, q0, hF, rfl⟩
  have Ngy_62 := Lib.hid h0
  have Ngr_62 := Lib.hid h1
  have Na3_0_62 := Lib.hid h2
  have Na3_1_62 := Lib.hid h3
  have HNE62_1 : Hid (w.heap.size ≠ a3_0) := Lib.hid (by have := HLT3_0.out; omega)
  have HNE62_2 : Hid (gr ≠ a3_0) := Lib.hid (by have := HLT3_1.out; omega)
  have HGE62_0 : Hid (w.heap.size ≤ a3_0) := Lib.hid (by have := HLO3.out; omega)
  have HNE62_3 : Hid (w.heap.size ≠ a3_1) := Lib.hid (by have := HLT3_0.out; omega)
  have HNE62_4 : Hid (gr ≠ a3_1) := Lib.hid (by have := HLT3_1.out; omega)
  have HGE62_1 : Hid (w.heap.size ≤ a3_1) := Lib.hid (by have := HLO3.out; omega)
  have HNE62_5 := Lib.hid q0
  have HF_62 := Lib.hid hF
  clear h0 h1 h2 h3 k0 k1 q0 hF HLT3_0 HLT3_1 HLO3 Ngy_2 Ngr_2 HF_2
  go_wp2_with fail
  have HLT63_0 := lR Ngy_62
  have HLT63_1 := lR Ngr_62
  have HLT63_2 := lR Na3_0_62
  have HLT63_3 := lR Na3_1_62
  have HLO63 : Hid (w.heap.size ≤ v62.heap.size) := Lib.hid HF_62.out.size
  refine region_split (fun a' W => ∃ a63_0, RAt W w.heap.size [y] ∧ RAt W gr [0] ∧ RAt W a3_0 [1] ∧ RAt W a3_1 [yy] ∧ RAt W a63_0 [below] ∧ v62.heap.size ≤ a63_0 ∧ Below w.heap.size w W ∧ a' = ⟨#[vN y, .pointer (some ⟨w.heap.size, 0, none⟩), .pointer (some ⟨gr, 0, none⟩), .bool false, .pointer (some ⟨a3_0, 0, none⟩), .pointer (some ⟨a3_1, 0, none⟩), .pointer (some ⟨a63_0, 0, none⟩), vN 1, vN y, vN y, vN yy, vN dd, vN yy, vN m, vN 1, vN s, vN below, undef, undef, undef, undef, undef, undef, undef, undef], []⟩) ?_ ?_
  · refine startW (fun j => j == 7) (v62.heap.size) (by kernel_rfl) ?_
    obtain ⟨D63, hD63⟩ : ∃ D, D = v62.drew := ⟨_, rfl⟩
    rw [← hD63]
    have HL_63 := dLq hD63
    have Ngy_63 := dRq hD63 Ngy_62
    have Ngr_63 := dRq hD63 Ngr_62
    have Na3_0_63 := dRq hD63 Na3_0_62
    have Na3_1_63 := dRq hD63 Na3_1_62
    have HF_63 : Hid (Below w.heap.size w D63) := Lib.hid (by rw [hD63]; exact below_drewN' HF_62.out 1)
    clear hD63 Ngy_62 Ngr_62 Na3_0_62 Na3_1_62 HF_62
    refine takeT (i := 1) (oi := oEI8) (vN yy) rfl (by kernel_rfl) (by kernel_rfl) (by kernel_rfl) (by kernel_rfl) (by kernel_rfl) (fun _ _ _ h => nomatch h.1) (by rfl) (fun w' hk => exec_loadF (.tmp 5) rfl (a3_1) 0 0 rfl [yy] yy rfl (Na3_1_63.out.below hk HLT63_3.out) rfl) ?_
    simp only [oEI8, Act.put, zA, zB, zC]
    refine takeT (i := 3) (oi := oEI9) (vN 1) rfl (by kernel_rfl) (by kernel_rfl) (by kernel_rfl) (by kernel_rfl) (by kernel_rfl) (fun _ _ _ h => nomatch h.1) (by rfl) (fun w' hk => exec_loadF (.tmp 4) rfl (a3_0) 0 0 rfl [1] 1 rfl (Na3_0_63.out.below hk HLT63_2.out) rfl) ?_
    simp only [oEI9, Act.put, zA, zB, zC]
    refine eachW [0, 6] (by kernel_rfl) (by simp) ?_
    intro k hk
    simp only [zM, zN, or_false] at hk
    rcases hk with rfl | rfl
    · refine wpOp_call (i := 0) (oi := oEI10) rfl (by rfl) (exec_callL 45 [] #[] rfl [] rfl (CG45 _)) ((C2.out D63).mono ?_)
      rintro e64 W64 ⟨rfl, hb64⟩
      refine ⟨_, rfl, fun _ => hb64.mono HL_63.out, ?_⟩
      have Ngy_64 := hKq Ngy_63 hb64
      have Ngr_64 := hKq Ngr_63 hb64
      have Na3_0_64 := hKq Na3_0_63 hb64
      have Na3_1_64 := hKq Na3_1_63 hb64
      have HF_64 := fTq HF_63 hb64
      have HL_64 := lT HL_63 hb64
      clear hb64 HL_63 Ngy_63 Ngr_63 Na3_0_63 Na3_1_63 HF_63
      simp only [oEI10, Act.put, zA, zB, zC]
      refine eachW [2, 6] (by kernel_rfl) (by simp) ?_
      intro k hk
      simp only [zM, zN, or_false] at hk
      rcases hk with rfl | rfl
      · refine wpOp_call (i := 2) (oi := oEI11) rfl (by rfl) (exec_callL 25 [.tmp 11, .tmp 12] #[23, 23] rfl [vN dd, vN yy] rfl (CG25 _)) ((C3.out W64).mono ?_)
        rintro e65 W65 ⟨rfl, hb65⟩
        refine ⟨_, rfl, fun _ => hb65.mono HL_64.out, ?_⟩
        have Ngy_65 := hKq Ngy_64 hb65
        have Ngr_65 := hKq Ngr_64 hb65
        have Na3_0_65 := hKq Na3_0_64 hb65
        have Na3_1_65 := hKq Na3_1_64 hb65
        have HF_65 := fTq HF_64 hb65
        have HL_65 := lT HL_64 hb65
        clear hb65 HL_64 Ngy_64 Ngr_64 Na3_0_64 Na3_1_64 HF_64
        simp only [oEI11, Act.put, zA, zB, zC]
        refine eachW [4, 6] (by kernel_rfl) (by simp) ?_
        intro k hk
        simp only [zM, zN, or_false] at hk
        rcases hk with rfl | rfl
        · refine wpOp_call (i := 4) (oi := oEI12) rfl (by rfl) (exec_callL 19 [.tmp 13, .tmp 14] #[23, 23] rfl [vN m, vN 1] rfl (CG19 _)) ((C4.out W65).mono ?_)
          rintro e66 W66 ⟨rfl, hb66⟩
          refine ⟨_, rfl, fun _ => hb66.mono HL_65.out, ?_⟩
          have Ngy_66 := hKq Ngy_65 hb66
          have Ngr_66 := hKq Ngr_65 hb66
          have Na3_0_66 := hKq Na3_0_65 hb66
          have Na3_1_66 := hKq Na3_1_65 hb66
          have HF_66 := fTq HF_65 hb66
          have HL_66 := lT HL_65 hb66
          clear hb66 HL_65 Ngy_65 Ngr_65 Na3_0_65 Na3_1_65 HF_65
          simp only [oEI12, Act.put, zA, zB, zC]
          refine eachW [5, 6] (by kernel_rfl) (by simp) ?_
          intro k hk
          simp only [zM, zN, or_false] at hk
          rcases hk with rfl | rfl
          · refine wpOp_call (i := 5) (oi := oEI13) rfl (by rfl) (exec_callL 29 [.tmp 15] #[23] rfl [vN s] rfl (CG29 _)) ((C5.out W66).mono ?_)
            rintro e67 W67 ⟨rfl, hb67⟩
            refine ⟨_, rfl, fun _ => hb67.mono HL_66.out, ?_⟩
            have Ngy_67 := hKq Ngy_66 hb67
            have Ngr_67 := hKq Ngr_66 hb67
            have Na3_0_67 := hKq Na3_0_66 hb67
            have Na3_1_67 := hKq Na3_1_66 hb67
            have HF_67 := fTq HF_66 hb67
            have HL_67 := lT HL_66 hb67
            clear hb67 HL_66 Ngy_66 Ngr_66 Na3_0_66 Na3_1_66 HF_66
            simp only [oEI13, Act.put, zA, zB, zC]
            refine opW _ _ (i := 6) (oi := oEI14) rfl (by kernel_rfl) (by rfl) (exec_alloc 23 rfl (.agg (zbs 32)) zero23 W67) (fun _ => (below_alloc W67 _).mono HL_67.out) ?_
            obtain ⟨W68, hW68, hb68, hz68⟩ := alloc_zero W67
            rw [← hW68]
            obtain ⟨g68, hg68⟩ : ∃ g, g = W67.heap.size := ⟨_, rfl⟩
            rw [← hg68] at hz68 ⊢
            have HG68 := gE hg68 HL_67
            have HX68_6 := nXq Ngy_67 hg68
            have HX68_7 := nXq Ngr_67 hg68
            have HX68_8 := nXq Na3_0_67 hg68
            have HX68_9 := nXq Na3_1_67 hg68
            have Ngy_68 := hKq Ngy_67 hb68
            have Ngr_68 := hKq Ngr_67 hb68
            have Na3_0_68 := hKq Na3_0_67 hb68
            have Na3_1_68 := hKq Na3_1_67 hb68
            have HF_68 := fTq HF_67 hb68
            have HL_68 := lT HL_67 hb68
            have RZ68_68 := zrq hz68
            clear hb68 hz68 hg68 hW68 HL_67 Ngy_67 Ngr_67 Na3_0_67 Na3_1_67 HF_67
            simp only [oEI14, Act.put, zA, zB, zC]
            refine storeW_F (i := 7) (oi := oEI15) rfl (by kernel_rfl) (by rfl) (.tmp 6) (.tmp 16) rfl (g68) 0 0 rfl [0] below rfl rfl RZ68_68.out (show 0 < 1 by omega) rfl ?_
            intro W69 hr69 hg69 hz69
            simp only [oEI15, Act.put, zA, zB, zC]
            have Ngy_69 := hGq Ngy_68 hg69 HX68_6
            have Ngr_69 := hGq Ngr_68 hg69 HX68_7
            have Na3_0_69 := hGq Na3_0_68 hg69 HX68_8
            have Na3_1_69 := hGq Na3_1_68 hg69 HX68_9
            have RZ68_69 : Hid (RAt W69 g68 [below]) := Lib.hid hr69
            have HF_69 := fBq HF_68 hg69 HG68 HLO63
            have HL_69 := lG HL_68 hg69
            clear hr69 hg69 hz69 HL_68 Ngy_68 Ngr_68 Na3_0_68 Na3_1_68 RZ68_68 HF_68
            refine doneW (by kernel_rfl) ⟨rfl, ?_⟩ _
            exact ⟨g68, Ngy_69.out, Ngr_69.out, Na3_0_69.out, Na3_1_69.out, RZ68_69.out, HG68.out, HF_69.out, rfl⟩
          · refine wpOp_value (i := 6) (oi := oEI14) rfl (by rfl) (exec_alloc 23 rfl (.agg (zbs 32)) zero23 W66) ⟨fun _ => (below_alloc W66 _).mono HL_66.out, ?_⟩
            obtain ⟨W70, hW70, hb70, hz70⟩ := alloc_zero W66
            rw [← hW70]
            obtain ⟨g70, hg70⟩ : ∃ g, g = W66.heap.size := ⟨_, rfl⟩
            rw [← hg70] at hz70 ⊢
            have HG70 := gE hg70 HL_66
            have HX70_6 := nXq Ngy_66 hg70
            have HX70_7 := nXq Ngr_66 hg70
            have HX70_8 := nXq Na3_0_66 hg70
            have HX70_9 := nXq Na3_1_66 hg70
            have Ngy_70 := hKq Ngy_66 hb70
            have Ngr_70 := hKq Ngr_66 hb70
            have Na3_0_70 := hKq Na3_0_66 hb70
            have Na3_1_70 := hKq Na3_1_66 hb70
            have HF_70 := fTq HF_66 hb70
            have HL_70 := lT HL_66 hb70
            have RZ70_70 := zrq hz70
            clear hb70 hz70 hg70 hW70 HL_66 Ngy_66 Ngr_66 Na3_0_66 Na3_1_66 HF_66
            simp only [oEI14, Act.put, zA, zB, zC]
            refine callW (i := 5) (oi := oEI13) rfl (by kernel_rfl) (by rfl) (exec_callL 29 [.tmp 15] #[23] rfl [vN s] rfl (CG29 _)) ((C5.out W70).mono ?_)
            rintro e71 W71 ⟨rfl, hb71⟩
            refine ⟨_, rfl, fun _ => hb71.mono HL_70.out, ?_⟩
            have Ngy_71 := hKq Ngy_70 hb71
            have Ngr_71 := hKq Ngr_70 hb71
            have Na3_0_71 := hKq Na3_0_70 hb71
            have Na3_1_71 := hKq Na3_1_70 hb71
            have RZ70_71 := hKq RZ70_70 hb71
            have HF_71 := fTq HF_70 hb71
            have HL_71 := lT HL_70 hb71
            clear hb71 HL_70 Ngy_70 Ngr_70 Na3_0_70 Na3_1_70 RZ70_70 HF_70
            simp only [oEI13, Act.put, zA, zB, zC]
            refine storeW_F (i := 7) (oi := oEI15) rfl (by kernel_rfl) (by rfl) (.tmp 6) (.tmp 16) rfl (g70) 0 0 rfl [0] below rfl rfl RZ70_71.out (show 0 < 1 by omega) rfl ?_
            intro W72 hr72 hg72 hz72
            simp only [oEI15, Act.put, zA, zB, zC]
            have Ngy_72 := hGq Ngy_71 hg72 HX70_6
            have Ngr_72 := hGq Ngr_71 hg72 HX70_7
            have Na3_0_72 := hGq Na3_0_71 hg72 HX70_8
            have Na3_1_72 := hGq Na3_1_71 hg72 HX70_9
            have RZ70_72 : Hid (RAt W72 g70 [below]) := Lib.hid hr72
            have HF_72 := fBq HF_71 hg72 HG70 HLO63
            have HL_72 := lG HL_71 hg72
            clear hr72 hg72 hz72 HL_71 Ngy_71 Ngr_71 Na3_0_71 Na3_1_71 RZ70_71 HF_71
            refine doneW (by kernel_rfl) ⟨rfl, ?_⟩ _
            exact ⟨g70, Ngy_72.out, Ngr_72.out, Na3_0_72.out, Na3_1_72.out, RZ70_72.out, HG70.out, HF_72.out, rfl⟩
        · refine wpOp_value (i := 6) (oi := oEI14) rfl (by rfl) (exec_alloc 23 rfl (.agg (zbs 32)) zero23 W65) ⟨fun _ => (below_alloc W65 _).mono HL_65.out, ?_⟩
          obtain ⟨W73, hW73, hb73, hz73⟩ := alloc_zero W65
          rw [← hW73]
          obtain ⟨g73, hg73⟩ : ∃ g, g = W65.heap.size := ⟨_, rfl⟩
          rw [← hg73] at hz73 ⊢
          have HG73 := gE hg73 HL_65
          have HX73_6 := nXq Ngy_65 hg73
          have HX73_7 := nXq Ngr_65 hg73
          have HX73_8 := nXq Na3_0_65 hg73
          have HX73_9 := nXq Na3_1_65 hg73
          have Ngy_73 := hKq Ngy_65 hb73
          have Ngr_73 := hKq Ngr_65 hb73
          have Na3_0_73 := hKq Na3_0_65 hb73
          have Na3_1_73 := hKq Na3_1_65 hb73
          have HF_73 := fTq HF_65 hb73
          have HL_73 := lT HL_65 hb73
          have RZ73_73 := zrq hz73
          clear hb73 hz73 hg73 hW73 HL_65 Ngy_65 Ngr_65 Na3_0_65 Na3_1_65 HF_65
          simp only [oEI14, Act.put, zA, zB, zC]
          refine callW (i := 4) (oi := oEI12) rfl (by kernel_rfl) (by rfl) (exec_callL 19 [.tmp 13, .tmp 14] #[23, 23] rfl [vN m, vN 1] rfl (CG19 _)) ((C4.out W73).mono ?_)
          rintro e74 W74 ⟨rfl, hb74⟩
          refine ⟨_, rfl, fun _ => hb74.mono HL_73.out, ?_⟩
          have Ngy_74 := hKq Ngy_73 hb74
          have Ngr_74 := hKq Ngr_73 hb74
          have Na3_0_74 := hKq Na3_0_73 hb74
          have Na3_1_74 := hKq Na3_1_73 hb74
          have RZ73_74 := hKq RZ73_73 hb74
          have HF_74 := fTq HF_73 hb74
          have HL_74 := lT HL_73 hb74
          clear hb74 HL_73 Ngy_73 Ngr_73 Na3_0_73 Na3_1_73 RZ73_73 HF_73
          simp only [oEI12, Act.put, zA, zB, zC]
          refine callW (i := 5) (oi := oEI13) rfl (by kernel_rfl) (by rfl) (exec_callL 29 [.tmp 15] #[23] rfl [vN s] rfl (CG29 _)) ((C5.out W74).mono ?_)
          rintro e75 W75 ⟨rfl, hb75⟩
          refine ⟨_, rfl, fun _ => hb75.mono HL_74.out, ?_⟩
          have Ngy_75 := hKq Ngy_74 hb75
          have Ngr_75 := hKq Ngr_74 hb75
          have Na3_0_75 := hKq Na3_0_74 hb75
          have Na3_1_75 := hKq Na3_1_74 hb75
          have RZ73_75 := hKq RZ73_74 hb75
          have HF_75 := fTq HF_74 hb75
          have HL_75 := lT HL_74 hb75
          clear hb75 HL_74 Ngy_74 Ngr_74 Na3_0_74 Na3_1_74 RZ73_74 HF_74
          simp only [oEI13, Act.put, zA, zB, zC]
          refine storeW_F (i := 7) (oi := oEI15) rfl (by kernel_rfl) (by rfl) (.tmp 6) (.tmp 16) rfl (g73) 0 0 rfl [0] below rfl rfl RZ73_75.out (show 0 < 1 by omega) rfl ?_
          intro W76 hr76 hg76 hz76
          simp only [oEI15, Act.put, zA, zB, zC]
          have Ngy_76 := hGq Ngy_75 hg76 HX73_6
          have Ngr_76 := hGq Ngr_75 hg76 HX73_7
          have Na3_0_76 := hGq Na3_0_75 hg76 HX73_8
          have Na3_1_76 := hGq Na3_1_75 hg76 HX73_9
          have RZ73_76 : Hid (RAt W76 g73 [below]) := Lib.hid hr76
          have HF_76 := fBq HF_75 hg76 HG73 HLO63
          have HL_76 := lG HL_75 hg76
          clear hr76 hg76 hz76 HL_75 Ngy_75 Ngr_75 Na3_0_75 Na3_1_75 RZ73_75 HF_75
          refine doneW (by kernel_rfl) ⟨rfl, ?_⟩ _
          exact ⟨g73, Ngy_76.out, Ngr_76.out, Na3_0_76.out, Na3_1_76.out, RZ73_76.out, HG73.out, HF_76.out, rfl⟩
      · refine wpOp_value (i := 6) (oi := oEI14) rfl (by rfl) (exec_alloc 23 rfl (.agg (zbs 32)) zero23 W64) ⟨fun _ => (below_alloc W64 _).mono HL_64.out, ?_⟩
        obtain ⟨W77, hW77, hb77, hz77⟩ := alloc_zero W64
        rw [← hW77]
        obtain ⟨g77, hg77⟩ : ∃ g, g = W64.heap.size := ⟨_, rfl⟩
        rw [← hg77] at hz77 ⊢
        have HG77 := gE hg77 HL_64
        have HX77_6 := nXq Ngy_64 hg77
        have HX77_7 := nXq Ngr_64 hg77
        have HX77_8 := nXq Na3_0_64 hg77
        have HX77_9 := nXq Na3_1_64 hg77
        have Ngy_77 := hKq Ngy_64 hb77
        have Ngr_77 := hKq Ngr_64 hb77
        have Na3_0_77 := hKq Na3_0_64 hb77
        have Na3_1_77 := hKq Na3_1_64 hb77
        have HF_77 := fTq HF_64 hb77
        have HL_77 := lT HL_64 hb77
        have RZ77_77 := zrq hz77
        clear hb77 hz77 hg77 hW77 HL_64 Ngy_64 Ngr_64 Na3_0_64 Na3_1_64 HF_64
        simp only [oEI14, Act.put, zA, zB, zC]
        refine callW (i := 2) (oi := oEI11) rfl (by kernel_rfl) (by rfl) (exec_callL 25 [.tmp 11, .tmp 12] #[23, 23] rfl [vN dd, vN yy] rfl (CG25 _)) ((C3.out W77).mono ?_)
        rintro e78 W78 ⟨rfl, hb78⟩
        refine ⟨_, rfl, fun _ => hb78.mono HL_77.out, ?_⟩
        have Ngy_78 := hKq Ngy_77 hb78
        have Ngr_78 := hKq Ngr_77 hb78
        have Na3_0_78 := hKq Na3_0_77 hb78
        have Na3_1_78 := hKq Na3_1_77 hb78
        have RZ77_78 := hKq RZ77_77 hb78
        have HF_78 := fTq HF_77 hb78
        have HL_78 := lT HL_77 hb78
        clear hb78 HL_77 Ngy_77 Ngr_77 Na3_0_77 Na3_1_77 RZ77_77 HF_77
        simp only [oEI11, Act.put, zA, zB, zC]
        refine callW (i := 4) (oi := oEI12) rfl (by kernel_rfl) (by rfl) (exec_callL 19 [.tmp 13, .tmp 14] #[23, 23] rfl [vN m, vN 1] rfl (CG19 _)) ((C4.out W78).mono ?_)
        rintro e79 W79 ⟨rfl, hb79⟩
        refine ⟨_, rfl, fun _ => hb79.mono HL_78.out, ?_⟩
        have Ngy_79 := hKq Ngy_78 hb79
        have Ngr_79 := hKq Ngr_78 hb79
        have Na3_0_79 := hKq Na3_0_78 hb79
        have Na3_1_79 := hKq Na3_1_78 hb79
        have RZ77_79 := hKq RZ77_78 hb79
        have HF_79 := fTq HF_78 hb79
        have HL_79 := lT HL_78 hb79
        clear hb79 HL_78 Ngy_78 Ngr_78 Na3_0_78 Na3_1_78 RZ77_78 HF_78
        simp only [oEI12, Act.put, zA, zB, zC]
        refine callW (i := 5) (oi := oEI13) rfl (by kernel_rfl) (by rfl) (exec_callL 29 [.tmp 15] #[23] rfl [vN s] rfl (CG29 _)) ((C5.out W79).mono ?_)
        rintro e80 W80 ⟨rfl, hb80⟩
        refine ⟨_, rfl, fun _ => hb80.mono HL_79.out, ?_⟩
        have Ngy_80 := hKq Ngy_79 hb80
        have Ngr_80 := hKq Ngr_79 hb80
        have Na3_0_80 := hKq Na3_0_79 hb80
        have Na3_1_80 := hKq Na3_1_79 hb80
        have RZ77_80 := hKq RZ77_79 hb80
        have HF_80 := fTq HF_79 hb80
        have HL_80 := lT HL_79 hb80
        clear hb80 HL_79 Ngy_79 Ngr_79 Na3_0_79 Na3_1_79 RZ77_79 HF_79
        simp only [oEI13, Act.put, zA, zB, zC]
        refine storeW_F (i := 7) (oi := oEI15) rfl (by kernel_rfl) (by rfl) (.tmp 6) (.tmp 16) rfl (g77) 0 0 rfl [0] below rfl rfl RZ77_80.out (show 0 < 1 by omega) rfl ?_
        intro W81 hr81 hg81 hz81
        simp only [oEI15, Act.put, zA, zB, zC]
        have Ngy_81 := hGq Ngy_80 hg81 HX77_6
        have Ngr_81 := hGq Ngr_80 hg81 HX77_7
        have Na3_0_81 := hGq Na3_0_80 hg81 HX77_8
        have Na3_1_81 := hGq Na3_1_80 hg81 HX77_9
        have RZ77_81 : Hid (RAt W81 g77 [below]) := Lib.hid hr81
        have HF_81 := fBq HF_80 hg81 HG77 HLO63
        have HL_81 := lG HL_80 hg81
        clear hr81 hg81 hz81 HL_80 Ngy_80 Ngr_80 Na3_0_80 Na3_1_80 RZ77_80 HF_80
        refine doneW (by kernel_rfl) ⟨rfl, ?_⟩ _
        exact ⟨g77, Ngy_81.out, Ngr_81.out, Na3_0_81.out, Na3_1_81.out, RZ77_81.out, HG77.out, HF_81.out, rfl⟩
    · refine wpOp_value (i := 6) (oi := oEI14) rfl (by rfl) (exec_alloc 23 rfl (.agg (zbs 32)) zero23 D63) ⟨fun _ => (below_alloc D63 _).mono HL_63.out, ?_⟩
      obtain ⟨W82, hW82, hb82, hz82⟩ := alloc_zero D63
      rw [← hW82]
      obtain ⟨g82, hg82⟩ : ∃ g, g = D63.heap.size := ⟨_, rfl⟩
      rw [← hg82] at hz82 ⊢
      have HG82 := gE hg82 HL_63
      have HX82_6 := nXq Ngy_63 hg82
      have HX82_7 := nXq Ngr_63 hg82
      have HX82_8 := nXq Na3_0_63 hg82
      have HX82_9 := nXq Na3_1_63 hg82
      have Ngy_82 := hKq Ngy_63 hb82
      have Ngr_82 := hKq Ngr_63 hb82
      have Na3_0_82 := hKq Na3_0_63 hb82
      have Na3_1_82 := hKq Na3_1_63 hb82
      have HF_82 := fTq HF_63 hb82
      have HL_82 := lT HL_63 hb82
      have RZ82_82 := zrq hz82
      clear hb82 hz82 hg82 hW82 HL_63 Ngy_63 Ngr_63 Na3_0_63 Na3_1_63 HF_63
      simp only [oEI14, Act.put, zA, zB, zC]
      refine callW (i := 0) (oi := oEI10) rfl (by kernel_rfl) (by rfl) (exec_callL 45 [] #[] rfl [] rfl (CG45 _)) ((C2.out W82).mono ?_)
      rintro e83 W83 ⟨rfl, hb83⟩
      refine ⟨_, rfl, fun _ => hb83.mono HL_82.out, ?_⟩
      have Ngy_83 := hKq Ngy_82 hb83
      have Ngr_83 := hKq Ngr_82 hb83
      have Na3_0_83 := hKq Na3_0_82 hb83
      have Na3_1_83 := hKq Na3_1_82 hb83
      have RZ82_83 := hKq RZ82_82 hb83
      have HF_83 := fTq HF_82 hb83
      have HL_83 := lT HL_82 hb83
      clear hb83 HL_82 Ngy_82 Ngr_82 Na3_0_82 Na3_1_82 RZ82_82 HF_82
      simp only [oEI10, Act.put, zA, zB, zC]
      refine callW (i := 2) (oi := oEI11) rfl (by kernel_rfl) (by rfl) (exec_callL 25 [.tmp 11, .tmp 12] #[23, 23] rfl [vN dd, vN yy] rfl (CG25 _)) ((C3.out W83).mono ?_)
      rintro e84 W84 ⟨rfl, hb84⟩
      refine ⟨_, rfl, fun _ => hb84.mono HL_83.out, ?_⟩
      have Ngy_84 := hKq Ngy_83 hb84
      have Ngr_84 := hKq Ngr_83 hb84
      have Na3_0_84 := hKq Na3_0_83 hb84
      have Na3_1_84 := hKq Na3_1_83 hb84
      have RZ82_84 := hKq RZ82_83 hb84
      have HF_84 := fTq HF_83 hb84
      have HL_84 := lT HL_83 hb84
      clear hb84 HL_83 Ngy_83 Ngr_83 Na3_0_83 Na3_1_83 RZ82_83 HF_83
      simp only [oEI11, Act.put, zA, zB, zC]
      refine callW (i := 4) (oi := oEI12) rfl (by kernel_rfl) (by rfl) (exec_callL 19 [.tmp 13, .tmp 14] #[23, 23] rfl [vN m, vN 1] rfl (CG19 _)) ((C4.out W84).mono ?_)
      rintro e85 W85 ⟨rfl, hb85⟩
      refine ⟨_, rfl, fun _ => hb85.mono HL_84.out, ?_⟩
      have Ngy_85 := hKq Ngy_84 hb85
      have Ngr_85 := hKq Ngr_84 hb85
      have Na3_0_85 := hKq Na3_0_84 hb85
      have Na3_1_85 := hKq Na3_1_84 hb85
      have RZ82_85 := hKq RZ82_84 hb85
      have HF_85 := fTq HF_84 hb85
      have HL_85 := lT HL_84 hb85
      clear hb85 HL_84 Ngy_84 Ngr_84 Na3_0_84 Na3_1_84 RZ82_84 HF_84
      simp only [oEI12, Act.put, zA, zB, zC]
      refine callW (i := 5) (oi := oEI13) rfl (by kernel_rfl) (by rfl) (exec_callL 29 [.tmp 15] #[23] rfl [vN s] rfl (CG29 _)) ((C5.out W85).mono ?_)
      rintro e86 W86 ⟨rfl, hb86⟩
      refine ⟨_, rfl, fun _ => hb86.mono HL_85.out, ?_⟩
      have Ngy_86 := hKq Ngy_85 hb86
      have Ngr_86 := hKq Ngr_85 hb86
      have Na3_0_86 := hKq Na3_0_85 hb86
      have Na3_1_86 := hKq Na3_1_85 hb86
      have RZ82_86 := hKq RZ82_85 hb86
      have HF_86 := fTq HF_85 hb86
      have HL_86 := lT HL_85 hb86
      clear hb86 HL_85 Ngy_85 Ngr_85 Na3_0_85 Na3_1_85 RZ82_85 HF_85
      simp only [oEI13, Act.put, zA, zB, zC]
      refine storeW_F (i := 7) (oi := oEI15) rfl (by kernel_rfl) (by rfl) (.tmp 6) (.tmp 16) rfl (g82) 0 0 rfl [0] below rfl rfl RZ82_86.out (show 0 < 1 by omega) rfl ?_
      intro W87 hr87 hg87 hz87
      simp only [oEI15, Act.put, zA, zB, zC]
      have Ngy_87 := hGq Ngy_86 hg87 HX82_6
      have Ngr_87 := hGq Ngr_86 hg87 HX82_7
      have Na3_0_87 := hGq Na3_0_86 hg87 HX82_8
      have Na3_1_87 := hGq Na3_1_86 hg87 HX82_9
      have RZ82_87 : Hid (RAt W87 g82 [below]) := Lib.hid hr87
      have HF_87 := fBq HF_86 hg87 HG82 HLO63
      have HL_87 := lG HL_86 hg87
      clear hr87 hg87 hz87 HL_86 Ngy_86 Ngr_86 Na3_0_86 Na3_1_86 RZ82_86 HF_86
      refine doneW (by kernel_rfl) ⟨rfl, ?_⟩ _
      exact ⟨g82, Ngy_87.out, Ngr_87.out, Na3_0_87.out, Na3_1_87.out, RZ82_87.out, HG82.out, HF_87.out, rfl⟩
  rintro a' v88 ⟨a63_0, h0, h1, h2, h3, h4, k0, hF, rfl⟩
  have Ngy_88 := Lib.hid h0
  have Ngr_88 := Lib.hid h1
  have Na3_0_88 := Lib.hid h2
  have Na3_1_88 := Lib.hid h3
  have Na63_0_88 := Lib.hid h4
  have HNE88_6 : Hid (w.heap.size ≠ a63_0) := Lib.hid (by have := HLT63_0.out; omega)
  have HNE88_7 : Hid (gr ≠ a63_0) := Lib.hid (by have := HLT63_1.out; omega)
  have HNE88_8 : Hid (a3_0 ≠ a63_0) := Lib.hid (by have := HLT63_2.out; omega)
  have HNE88_9 : Hid (a3_1 ≠ a63_0) := Lib.hid (by have := HLT63_3.out; omega)
  have HGE88_0 : Hid (w.heap.size ≤ a63_0) := Lib.hid (by have := HLO63.out; omega)
  have HF_88 := Lib.hid hF
  clear h0 h1 h2 h3 h4 k0 hF HLT63_0 HLT63_1 HLT63_2 HLT63_3 HLO63 Ngy_62 Ngr_62 Na3_0_62 Na3_1_62 HF_62
  go_wp2_with fail
  have HLT89_0 := lR Ngy_88
  have HLT89_1 := lR Ngr_88
  have HLT89_2 := lR Na3_0_88
  have HLT89_3 := lR Na3_1_88
  have HLT89_4 := lR Na63_0_88
  have HLO89 : Hid (w.heap.size ≤ v88.heap.size) := Lib.hid HF_88.out.size
  refine region_split (fun a' W => RAt W w.heap.size [y] ∧ RAt W gr [x] ∧ RAt W a3_0 [1] ∧ RAt W a3_1 [yy] ∧ RAt W a63_0 [below] ∧ Below w.heap.size w W ∧ a' = ⟨#[vN y, .pointer (some ⟨w.heap.size, 0, none⟩), .pointer (some ⟨gr, 0, none⟩), .bool ok, .pointer (some ⟨a3_0, 0, none⟩), .pointer (some ⟨a3_1, 0, none⟩), .pointer (some ⟨a63_0, 0, none⟩), vN 1, vN y, vN y, vN yy, vN dd, vN yy, vN m, vN 1, vN s, vN below, vN yy, vN 1, vN u, vN below, vN q, .tuple #[vN x, .bool ok], vN x, .bool ok], []⟩) ?_ ?_
  · refine startW (fun j => j == 8) (v88.heap.size) (by kernel_rfl) ?_
    obtain ⟨D89, hD89⟩ : ∃ D, D = v88.drew := ⟨_, rfl⟩
    rw [← hD89]
    have HL_89 := dLq hD89
    have Ngy_89 := dRq hD89 Ngy_88
    have Ngr_89 := dRq hD89 Ngr_88
    have Na3_0_89 := dRq hD89 Na3_0_88
    have Na3_1_89 := dRq hD89 Na3_1_88
    have Na63_0_89 := dRq hD89 Na63_0_88
    have HF_89 : Hid (Below w.heap.size w D89) := Lib.hid (by rw [hD89]; exact below_drewN' HF_88.out 1)
    clear hD89 Ngy_88 Ngr_88 Na3_0_88 Na3_1_88 Na63_0_88 HF_88
    refine takeT (i := 0) (oi := oEI16) (vN yy) rfl (by kernel_rfl) (by kernel_rfl) (by kernel_rfl) (by kernel_rfl) (by kernel_rfl) (fun _ _ _ h => nomatch h.1) (by rfl) (fun w' hk => exec_loadF (.tmp 5) rfl (a3_1) 0 0 rfl [yy] yy rfl (Na3_1_89.out.below hk HLT89_3.out) rfl) ?_
    simp only [oEI16, Act.put, zA, zB, zC]
    refine takeT (i := 1) (oi := oEI17) (vN 1) rfl (by kernel_rfl) (by kernel_rfl) (by kernel_rfl) (by kernel_rfl) (by kernel_rfl) (fun _ _ _ h => nomatch h.1) (by rfl) (fun w' hk => exec_loadF (.tmp 4) rfl (a3_0) 0 0 rfl [1] 1 rfl (Na3_0_89.out.below hk HLT89_2.out) rfl) ?_
    simp only [oEI17, Act.put, zA, zB, zC]
    refine takeT (i := 3) (oi := oEI18) (vN below) rfl (by kernel_rfl) (by kernel_rfl) (by kernel_rfl) (by kernel_rfl) (by kernel_rfl) (fun _ _ _ h => nomatch h.1) (by rfl) (fun w' hk => exec_loadF (.tmp 6) rfl (a63_0) 0 0 rfl [below] below rfl (Na63_0_89.out.below hk HLT89_4.out) rfl) ?_
    simp only [oEI18, Act.put, zA, zB, zC]
    refine callW (i := 2) (oi := oEI19) rfl (by kernel_rfl) (by rfl) (exec_callL 21 [.tmp 17, .tmp 18] #[23, 23] rfl [vN yy, vN 1] rfl (CG21 _)) ((C6.out D89).mono ?_)
    rintro e90 W90 ⟨rfl, hb90⟩
    refine ⟨_, rfl, fun _ => hb90.mono HL_89.out, ?_⟩
    have Ngy_90 := hKq Ngy_89 hb90
    have Ngr_90 := hKq Ngr_89 hb90
    have Na3_0_90 := hKq Na3_0_89 hb90
    have Na3_1_90 := hKq Na3_1_89 hb90
    have Na63_0_90 := hKq Na63_0_89 hb90
    have HF_90 := fTq HF_89 hb90
    have HL_90 := lT HL_89 hb90
    clear hb90 HL_89 Ngy_89 Ngr_89 Na3_0_89 Na3_1_89 Na63_0_89 HF_89
    simp only [oEI19, Act.put, zA, zB, zC]
    refine callW (i := 4) (oi := oEI20) rfl (by kernel_rfl) (by rfl) (exec_callL 25 [.tmp 19, .tmp 20] #[23, 23] rfl [vN u, vN below] rfl (CG25 _)) ((C7.out W90).mono ?_)
    rintro e91 W91 ⟨rfl, hb91⟩
    refine ⟨_, rfl, fun _ => hb91.mono HL_90.out, ?_⟩
    have Ngy_91 := hKq Ngy_90 hb91
    have Ngr_91 := hKq Ngr_90 hb91
    have Na3_0_91 := hKq Na3_0_90 hb91
    have Na3_1_91 := hKq Na3_1_90 hb91
    have Na63_0_91 := hKq Na63_0_90 hb91
    have HF_91 := fTq HF_90 hb91
    have HL_91 := lT HL_90 hb91
    clear hb91 HL_90 Ngy_90 Ngr_90 Na3_0_90 Na3_1_90 Na63_0_90 HF_90
    simp only [oEI20, Act.put, zA, zB, zC]
    refine callW (i := 5) (oi := oEI21) rfl (by kernel_rfl) (by rfl) (exec_callL 11 [.tmp 21] #[23] rfl [vN q] rfl (CG11 _)) ((C8.out W91).mono ?_)
    rintro e92 W92 ⟨rfl, hb92⟩
    refine ⟨_, rfl, fun _ => hb92.mono HL_91.out, ?_⟩
    have Ngy_92 := hKq Ngy_91 hb92
    have Ngr_92 := hKq Ngr_91 hb92
    have Na3_0_92 := hKq Na3_0_91 hb92
    have Na3_1_92 := hKq Na3_1_91 hb92
    have Na63_0_92 := hKq Na63_0_91 hb92
    have HF_92 := fTq HF_91 hb92
    have HL_92 := lT HL_91 hb92
    clear hb92 HL_91 Ngy_91 Ngr_91 Na3_0_91 Na3_1_91 Na63_0_91 HF_91
    simp only [oEI21, Act.put, zA, zB, zC]
    refine tA (i := 6) (oi := oEI22) ?_
    refine ⟨vN x, fun w' => exec_extract (.tmp 22) 0 rfl #[vN x, .bool ok] rfl _ rfl, ?_⟩
    simp only [oEI22, Act.put, zA, zB, zC]
    refine tA (i := 7) (oi := oEI23) ?_
    refine ⟨.bool ok, fun w' => exec_extract (.tmp 22) 1 rfl #[vN x, .bool ok] rfl _ rfl, ?_⟩
    simp only [oEI23, Act.put, zA, zB, zC]
    refine storeW_F (i := 8) (oi := oEI24) rfl (by kernel_rfl) (by rfl) (.tmp 2) (.tmp 23) rfl (gr) 0 0 rfl [0] x rfl rfl Ngr_92.out (show 0 < 1 by omega) rfl ?_
    intro W93 hr93 hg93 hz93
    simp only [oEI24, Act.put, zA, zB, zC]
    have Ngy_93 := hGq Ngy_92 hg93 HNE2_0
    have Ngr_93 : Hid (RAt W93 gr [x]) := Lib.hid hr93
    have Na3_0_93 := hGq Na3_0_92 hg93 HNE62_2
    have Na3_1_93 := hGq Na3_1_92 hg93 HNE62_4
    have Na63_0_93 := hGq Na63_0_92 hg93 HNE88_7
    have HF_93 : Hid (Below w.heap.size w W93) := Lib.hid (HF_92.out.grown hg93 HF_92.out.size (fun r hr => by injection hr with hr; have := HGE2.out; omega))
    have HL_93 := lG HL_92 hg93
    clear hr93 hg93 hz93 HL_92 Ngy_92 Ngr_92 Na3_0_92 Na3_1_92 Na63_0_92 HF_92
    refine tA (i := 9) (oi := oEI25) ?_
    refine ⟨.bool ok, fun w' => exec_moveA (.tmp 24) rfl _ rfl, ?_⟩
    simp only [oEI25, Act.put, zA, zB, zC]
    refine doneW (by kernel_rfl) ⟨rfl, ?_⟩ _
    exact ⟨Ngy_93.out, Ngr_93.out, Na3_0_93.out, Na3_1_93.out, Na63_0_93.out, HF_93.out, rfl⟩
  rintro a' v94 ⟨h0, h1, h2, h3, h4, hF, rfl⟩
  have Ngy_94 := Lib.hid h0
  have Ngr_94 := Lib.hid h1
  have Na3_0_94 := Lib.hid h2
  have Na3_1_94 := Lib.hid h3
  have Na63_0_94 := Lib.hid h4
  have HF_94 := Lib.hid hF
  clear h0 h1 h2 h3 h4 hF HLT89_0 HLT89_1 HLT89_2 HLT89_3 HLT89_4 HLO89 Ngy_88 Ngr_88 Na3_0_88 Na3_1_88 Na63_0_88 HF_88
  go_wp2
  obtain ⟨tr, htr⟩ := Ngr_94.out.num
  exact bodyPost_ret (results_cell2 rfl _ _ gr tr (bcs (enc x)).toArray (0, 0) _ rfl htr under23 rfl (by rw [List.size_toArray, bcs_enc_len]; exact size23)) rfl ⟨rfl, HF_94.out⟩

set_option maxHeartbeats 4000000 in
theorem Bytes_bad (x y : Nat) (w : World) (C1 : Hid (∀ w, Calls Try.prog 40 #[vR [x, y]] w (Gives (.int .i64 2) w))) :
    Calls Try.prog 36 #[vR [x, y]] w (Gives (.tuple #[vN 0, .int .i64 2]) w) := by
  go_enter Try.func36, Try.ntmps36
  go_wp2_with (first | ((with_reducible show wpList _ _ _ (⟨some 1, .box 35 (.tmp 0), _, _, _, _⟩ :: _) _ _); go_must (refine wpList_box_row rfl 35 (.tmp 0) rfl (bcs (encs [x, y])).toArray rfl ?_; intro a1 h1 z1 g1; have H1 := Lib.hid h1; have Z1 := Lib.hid z1; have G1 := Lib.hid g1; clear h1 z1 g1)) | ((with_reducible show wpList _ _ _ (⟨some 2, .alloc 22, _, _, _, _⟩ :: _) _ _); go_must (refine wpList_alloc_row rfl 22 rfl (.agg (zbs 32)) zero22 ?_; intro a2 h1 z1 g1; have H2 := Lib.hid h1; have Z2 := Lib.hid z1; have G2 := Lib.hid g1; clear h1 z1 g1; have R1 : Hid (RAt a2 w.heap.size [x, y]) := RAt.grown ⟨_, H1.out⟩ G2.out (by simp))) | ((with_reducible show wpList _ _ _ (⟨_, .load 35 (.tmp 1), _, _, _, _⟩ :: _) _ _); go_must (refine wpList_exec rfl (vR [x, y]) (exec_loadP (.tmp 1) rfl (w.heap.size) x y rfl R1.out) ?_)) | fail)
  have HB : Hid (Below w.heap.size w a2) := (below_of_grownBy G1.out).trans ((below_of_grownBy G2.out).mono (by have := Z1.out; omega))
  refine (C1.out _).mono ?_
  rintro e x1 ⟨rfl, hb⟩
  have HR : Hid (x1.heap[a1.heap.size]? = some (.cells (zbs 32) 22 (0, 0))) := Lib.hid ((hb.block _ (Array.getElem?_eq_some_iff.1 H2.out).1).trans H2.out)
  have HBel := Lib.hid (HB.out.trans (hb.mono HB.out.size))
  have HGE : Hid (w.heap.size ≤ a1.heap.size) := Lib.hid (by have := Z1.out; omega)
  clear hb HB H1 Z1 G1 H2 Z2 G2 R1
  go_wp2_with (first | ((with_reducible show wpList _ _ _ (⟨_, .build 22 _, _, _, _, _⟩ :: _) _ _); go_must (refine wpList_exec rfl (vN 0) (exec_buildc rfl (by kernel_rfl)) ?_)) | ((with_reducible show wpList _ _ _ (⟨none, .store 22 (.tmp 2) (.tmp 10), _, _, _, _⟩ :: _) _ _); go_must (refine wpList_store_all rfl 22 (.tmp 2) (.tmp 10) rfl (a1.heap.size) rfl (bcs (enc 0)).toArray rfl 22 _ HR.out (by rw [List.size_toArray, bcs_enc_len]; exact size22) (by rw [List.size_toArray, bcs_enc_len]; rfl) (bcs_one _) ?_; intro b5 hh hg hz; have HH5 := Lib.hid hh; have HG5 := Lib.hid hg; have HZ5 := Lib.hid hz; clear hh hg hz)) | fail)
  exact bodyPost_ret (results_cell2 rfl _ _ a1.heap.size 22 (bcs (enc 0)).toArray (0, 0) _ rfl HH5.out under22 rfl (by rw [List.size_toArray, bcs_enc_len]; exact size22)) rfl ⟨rfl, HBel.out.grown HG5.out HBel.out.size (fun r hr => by injection hr with hr; have := HGE.out; omega)⟩

set_option maxHeartbeats 4000000 in
theorem Bytes_core (x y r : Nat) (o : Bool) (w : World) (C1 : Hid (∀ w, Calls Try.prog 40 #[vR [x, y]] w (Gives (.int .i64 0) w))) (C2 : Hid (∀ w, Calls Try.prog 31 #[vN x] w (Gives (.bool o) w)))
    (HR : Hid (if o then (enc y).set 31 (UInt8.ofNat (((enc y).getD 31 0).toNat + 128)) = enc r else y = r)) (HY : Hid (((enc y).getD 31 0).toNat < 128)) :
    Calls Try.prog 36 #[vR [x, y]] w (Gives (.tuple #[vN r, .int .i64 0]) w) := by
  go_enter Try.func36, Try.ntmps36
  go_wp2_with (first | ((with_reducible show wpList _ _ _ (⟨some 1, .box 35 (.tmp 0), _, _, _, _⟩ :: _) _ _); go_must (refine wpList_box_row rfl 35 (.tmp 0) rfl (bcs (encs [x, y])).toArray rfl ?_; intro a1 h1 z1 g1; have H1 := Lib.hid h1; have Z1 := Lib.hid z1; have G1 := Lib.hid g1; clear h1 z1 g1)) | ((with_reducible show wpList _ _ _ (⟨some 2, .alloc 22, _, _, _, _⟩ :: _) _ _); go_must (refine wpList_alloc_row rfl 22 rfl (.agg (zbs 32)) zero22 ?_; intro a2 h1 z1 g1; have H2 := Lib.hid h1; have Z2 := Lib.hid z1; have G2 := Lib.hid g1; clear h1 z1 g1; have R1 : Hid (RAt a2 w.heap.size [x, y]) := RAt.grown ⟨_, H1.out⟩ G2.out (by simp))) | ((with_reducible show wpList _ _ _ (⟨_, .load 35 (.tmp 1), _, _, _, _⟩ :: _) _ _); go_must (refine wpList_exec rfl (vR [x, y]) (exec_loadP (.tmp 1) rfl (w.heap.size) x y rfl R1.out) ?_)) | fail)
  have HB : Hid (Below w.heap.size w a2) := (below_of_grownBy G1.out).trans ((below_of_grownBy G2.out).mono (by have := Z1.out; omega))
  refine (C1.out _).mono ?_
  rintro e x1 ⟨rfl, hb⟩
  have HR1 : Hid (x1.heap[a1.heap.size]? = some (.cells (zbs 32) 22 (0, 0))) := Lib.hid ((hb.block _ (Array.getElem?_eq_some_iff.1 H2.out).1).trans H2.out)
  have R2 := Lib.hid (R1.out.keep hb)
  have HBel := Lib.hid (HB.out.trans (hb.mono HB.out.size))
  have HGE : Hid (w.heap.size < a1.heap.size) := Lib.hid (by have := Z1.out; omega)
  clear hb HB H1 Z1 G1 H2 Z2 G2 R1
  generalize a1.heap.size = gr at *
  go_wp2_with (first | ((with_reducible show wpList _ _ _ (⟨_, .load 23 (.tmp 12), _, _, _, _⟩ :: _) _ _); go_must (refine wpList_exec rfl (vN y) (exec_loadF (.tmp 12) rfl (w.heap.size) 1 32 rfl [x, y] y rfl R2.out rfl) ?_)) | ((with_reducible show wpList _ _ _ (⟨some 5, .alloc 22, _, _, _, _⟩ :: _) _ _); go_must (refine wpList_alloc_row rfl 22 rfl (.agg (zbs 32)) zero22 ?_; intro a5 h1 z1 g1; have H5 := Lib.hid h1; have Z5 := Lib.hid z1; have G5 := Lib.hid g1; clear h1 z1 g1)) | ((with_reducible show wpList _ _ _ (⟨none, .store 22 (.tmp 5) (.tmp 13), _, _, _, _⟩ :: _) _ _); go_must (refine wpList_store_all rfl 22 (.tmp 5) (.tmp 13) rfl (x1.heap.size) rfl (bcs (enc y)).toArray rfl 22 _ H5.out (by rw [List.size_toArray, bcs_enc_len]; exact size22) (by rw [List.size_toArray, bcs_enc_len]; rfl) (bcs_one _) ?_; intro b6 hh hg hz; have HH6 := Lib.hid hh; have HG6 := Lib.hid hg; have HZ6 := Lib.hid hz; clear hh hg hz; have R3 := Lib.hid ((R2.out.grown G5.out (by simp)).grown HG6.out (by have := R2.out.lt; simp; omega)))) | ((with_reducible show wpList _ _ _ (⟨_, .load 23 (.tmp 14), _, _, _, _⟩ :: _) _ _); go_must (refine wpList_exec rfl (vN x) (exec_loadF (.tmp 14) rfl (w.heap.size) 0 0 rfl [x, y] x rfl R3.out rfl) ?_)) | fail)
  have HR2 : Hid (b6.heap[gr]? = some (.cells (zbs 32) 22 (0, 0))) := Lib.hid ((HG6.out.block _ (by have := (Array.getElem?_eq_some_iff.1 HR1.out).1; have := G5.out.size; omega) (by have := (Array.getElem?_eq_some_iff.1 HR1.out).1; simp; omega)).trans ((G5.out.block _ (Array.getElem?_eq_some_iff.1 HR1.out).1 (by simp)).trans HR1.out))
  have HB6 : Hid (Below w.heap.size w b6) := Lib.hid ((HBel.out.grown G5.out HBel.out.size (by simp)).grown HG6.out (by have := HBel.out.size; have := Z5.out; omega) (fun r hr => by injection hr with hr; have := HBel.out.size; omega))
  have HNE : Hid (gr < x1.heap.size) := Lib.hid (Array.getElem?_eq_some_iff.1 HR1.out).1
  clear HR1 HBel H5 Z5 G5 HG6 HZ6 R2 R3
  generalize x1.heap.size = gb at *
  refine (C2.out _).mono ?_
  rintro e x2 ⟨rfl, hb⟩
  have HRow : Hid (x2.heap[gb]? = some (.cells (bcs (enc y)).toArray 22 (0, 0))) := Lib.hid ((hb.block _ (Array.getElem?_eq_some_iff.1 HH6.out).1).trans HH6.out)
  have HR3 : Hid (x2.heap[gr]? = some (.cells (zbs 32) 22 (0, 0))) := Lib.hid ((hb.block _ (Array.getElem?_eq_some_iff.1 HR2.out).1).trans HR2.out)
  have HB7 := Lib.hid (HB6.out.trans (hb.mono HB6.out.size))
  clear hb HB6 HR2 HH6
  cases o
  · obtain rfl : y = r := HR.out
    go_wp2_with (first | ((with_reducible show wpList _ _ _ (⟨_, .load 22 (.tmp 5), _, _, _, _⟩ :: _) _ _); go_must (refine wpList_load_arr rfl 22 (.tmp 5) rfl gb 0 rfl (bcs (enc y)) (fun i u hu => by rw [Nat.zero_add]; exact row_cells HRow.out i u (by simpa using hu)) _ under22 rfl (by rw [bcs_enc_len]; exact size22) ?_)) | ((with_reducible show wpList _ _ _ (⟨none, .store 22 (.tmp 2) (.tmp 21), _, _, _, _⟩ :: _) _ _); go_must (refine wpList_store_all rfl 22 (.tmp 2) (.tmp 21) rfl (gr) rfl (bcs (enc y)).toArray rfl 22 _ HR3.out (by rw [List.size_toArray, bcs_enc_len]; exact size22) (by rw [List.size_toArray, bcs_enc_len]; rfl) (bcs_one _) ?_; intro b8 hh hg hz; have HH8 := Lib.hid hh; have HG8 := Lib.hid hg; have HZ8 := Lib.hid hz; clear hh hg hz)) | fail)
    exact bodyPost_ret (results_cell2 rfl _ _ gr 22 (bcs (enc y)).toArray (0, 0) _ rfl HH8.out under22 rfl (by rw [List.size_toArray, bcs_enc_len]; exact size22)) rfl ⟨rfl, HB7.out.grown HG8.out HB7.out.size (fun r hr => by injection hr with hr; have := HGE.out; omega)⟩
  · have hr : (enc y).set 31 (UInt8.ofNat (((enc y).getD 31 0).toNat + 128)) = enc r := HR.out
    have HRR := Lib.hid hr
    clear hr HR
    have c0 : x2.cell? ⟨gb, 31, none⟩ = some (.int .u8 (((enc y).getD 31 0).toNat : Nat)) := (show BAt x2 gb (enc y) from ⟨enc_len y, 22, HRow.out⟩).cell 31 (by omega)
    generalize ((enc y).getD 31 0).toNat = t at *
    go_wp2_with (first | ((with_reducible show wpList _ _ _ (⟨none, .store 5 (.tmp 20) (.tmp 19), _, _, _, _⟩ :: _) _ _); go_must (refine wpList_store_one rfl 5 (.tmp 20) (.tmp 19) rfl gb 31 rfl .u8 _ rfl 22 _ HRow.out size5 (by simp only [List.size_toArray, bcs_enc_len]; omega) ?_; intro b9 hh hg hz; rw [or_top t HY.out, byte_val (t + 128) (by have := HY.out; omega), bcs_put, HRR.out] at hh; have HH9 := Lib.hid hh; have HR4 : Hid (b9.heap[gr]? = some (.cells (zbs 32) 22 (0, 0))) := Lib.hid ((hg.block _ (Array.getElem?_eq_some_iff.1 HR3.out).1 (by have := HNE.out; simp; omega)).trans HR3.out); have HB8 : Hid (Below w.heap.size w b9) := Lib.hid (HB7.out.grown hg HB7.out.size (fun r hr => by injection hr with hr; have := HGE.out; have := HNE.out; omega)); clear hh hg hz HR3 HB7 HRow)) | ((with_reducible show wpList _ _ _ (⟨_, .load 22 (.tmp 5), _, _, _, _⟩ :: _) _ _); go_must (refine wpList_load_arr rfl 22 (.tmp 5) rfl gb 0 rfl (bcs (enc r)) (fun i u hu => by rw [Nat.zero_add]; exact row_cells HH9.out i u (by simpa using hu)) _ under22 rfl (by rw [bcs_enc_len]; exact size22) ?_)) | ((with_reducible show wpList _ _ _ (⟨none, .store 22 (.tmp 2) (.tmp 21), _, _, _, _⟩ :: _) _ _); go_must (refine wpList_store_all rfl 22 (.tmp 2) (.tmp 21) rfl (gr) rfl (bcs (enc r)).toArray rfl 22 _ HR4.out (by rw [List.size_toArray, bcs_enc_len]; exact size22) (by rw [List.size_toArray, bcs_enc_len]; rfl) (bcs_one _) ?_; intro b8 hh hg hz; have HH8 := Lib.hid hh; have HG8 := Lib.hid hg; have HZ8 := Lib.hid hz; clear hh hg hz)) | fail)
    exact bodyPost_ret (results_cell2 rfl _ _ gr 22 (bcs (enc r)).toArray (0, 0) _ rfl HH8.out under22 rfl (by rw [List.size_toArray, bcs_enc_len]; exact size22)) rfl ⟨rfl, HB8.out.grown HG8.out HB8.out.size (fun r hr => by injection hr with hr; have := HGE.out; omega)⟩
end Go.Proofs.Ytgdimnbdnepbgaa
/- The curve: Read. No statement is proved here. -/
namespace Go.Proofs.Ytgdimnbdnepbgaa
open Go.RowKit
set_option linter.unusedVariables false
set_option maxRecDepth 40000
set_option linter.unusedSimpArgs false

set_option maxHeartbeats 8000000 in
theorem Read_core (n y x m t u rx ry : Nat) (re : Int) (odd c ok z : Bool) (w : World)
    (HT : Hid (((enc n).getD 31 0).toNat = t)) (HO : Hid ((bits .and .u8 (t : Int) 128 != 0) = odd)) (HU : Hid (bits .andNot .u8 (t : Int) 128 = ((u : Nat) : Int))) (HU2 : Hid (u < 256)) (HS : Hid ((enc n).set 31 (UInt8.ofNat u) = enc y))
    (C1 : Hid (∀ w, Calls Try.prog 15 #[vN y] w (Gives (.bool c) w))) (C2 : Hid (∀ w, Calls Try.prog 78 #[vN y] w (Gives (.tuple #[vN x, .bool ok]) w))) (C3 : Hid (∀ w, Calls Try.prog 23 #[vN x] w (Gives (vN m) w)))
    (HE : Hid (∀ w, (Op.equalIn 10000 23 (vN x) (vN 0)).run Try.prog w = .ok z w))
    (HRES : Hid (if c && (ok && !(odd && z)) then (if odd then m else x) = rx ∧ y = ry ∧ (0 : Int) = re else 0 = rx ∧ 0 = ry ∧ (4 : Int) = re)) :
    Calls Try.prog 35 #[vN n] w (Gives (.tuple #[vR [rx, ry], .int .i64 re]) w) := by
  go_enter Try.func35, Try.ntmps35
  go_wp2_with (first | ((with_reducible show wpList _ _ _ (⟨some 1, .box 22 (.tmp 0), _, _, _, _⟩ :: _) _ _); go_must (refine wpList_box_row rfl 22 (.tmp 0) rfl (bcs (enc n)).toArray rfl ?_; intro a1 h1 z1 g1; have H1 := Lib.hid h1; have Z1 := Lib.hid z1; have G1 := Lib.hid g1; clear h1 z1 g1)) | ((with_reducible show wpList _ _ _ (⟨some 2, .alloc 35, _, _, _, _⟩ :: _) _ _); go_must (refine wpList_alloc_row rfl 35 rfl (.agg (zbs 64)) zero35 ?_; intro a2 h1 z1 g1; have HR : Hid (RAt a2 a1.heap.size [0, 0]) := Lib.hid (zrow (k := 2) h1); have HB : Hid (Below w.heap.size w a2) := Lib.hid ((below_of_grownBy G1.out).trans ((below_of_grownBy g1).mono (by have := Z1.out; omega))); have HI : Hid (a2.heap[w.heap.size]? = some (.cells (bcs (enc n)).toArray 22 (0, 0))) := Lib.hid ((g1.block _ (by have := Z1.out; omega) (by simp)).trans H1.out); have HGE : Hid (w.heap.size ≤ a1.heap.size) := Lib.hid (by have := Z1.out; omega); have HNE0 : Hid (w.heap.size ≠ a1.heap.size) := Lib.hid (by have := Z1.out; omega); have c0 : a2.cell? ⟨w.heap.size, 31, none⟩ = some (.int .u8 (((enc n).getD 31 0).toNat : Nat)) := (show BAt a2 w.heap.size (enc n) from ⟨enc_len n, 22, HI.out⟩).cell 31 (by omega); rw [HT.out] at c0; clear h1 z1 g1 H1 Z1 G1)) | ((with_reducible show wpList _ _ _ (⟨none, .store 5 (.tmp 15) (.tmp 14), _, _, _, _⟩ :: _) _ _); go_must (refine wpList_store_one rfl 5 (.tmp 15) (.tmp 14) rfl w.heap.size 31 rfl .u8 _ rfl 22 _ HI.out size5 (by simp only [List.size_toArray, bcs_enc_len]; omega) ?_; intro b9 hh hg hz; rw [HU.out, byte_val u HU2.out, bcs_put, HS.out] at hh; have RY_9 : Hid (RAt b9 w.heap.size [y]) := Lib.hid (NAt.row ⟨_, hh⟩); have RR_9 := Lib.hid (HR.out.grown hg (by have := HNE0.out; simp; omega)); have HB_9 : Hid (Below w.heap.size w b9) := Lib.hid (HB.out.grown hg HB.out.size (fun r hr => by injection hr with hr; omega)); have HGE00 : Hid (w.heap.size ≤ w.heap.size) := Lib.hid (Nat.le_refl _); clear hh hg hz HR HB HI c0)) | ((with_reducible show wpList _ _ _ (⟨_, .load 22 (.tmp 1), _, _, _, _⟩ :: _) _ _); go_must (refine wpList_exec rfl (vN y) (exec_load22 (.tmp 1) rfl (w.heap.size) 0 0 rfl [y] y rfl RY_9.out rfl) ?_)) | ((with_reducible show wpList _ _ _ (⟨some 5, .alloc 23, _, _, _, _⟩ :: _) _ _); go_must (refine wpList_alloc_row rfl 23 rfl (.agg (zbs 32)) zero23 ?_; intro u95 ha95 hza95 hga95; have HA95 := Lib.hid ha95; have HZA95 := Lib.hid hza95; have HGA95 := Lib.hid hga95; clear ha95 hza95 hga95)) | ((with_reducible show wpList _ _ _ (⟨none, .store 23 (.tmp 5) (.tmp 16), _, _, _, _⟩ :: _) _ _); go_must (refine wpList_storeF rfl (.tmp 5) (.tmp 16) rfl (b9.heap.size) 0 0 rfl [0] y rfl rfl (zrow (k := 1) HA95.out) (show 0 < 1 by omega) ?_; intro y95 hr95 hg95 hz95; have RY_95 := Lib.hid ((RY_9.out.grown HGA95.out (by simp)).grown hg95 (by have := RY_9.out.lt; simp; omega)); have RR_95 := Lib.hid ((RR_9.out.grown HGA95.out (by simp)).grown hg95 (by have := RR_9.out.lt; simp; omega)); have Ngy_95 : Hid (RAt y95 b9.heap.size [y]) := Lib.hid hr95; have HF_95 : Hid (Below w.heap.size w y95) := Lib.hid ((HB_9.out.grown HGA95.out HB_9.out.size (by simp)).grown hg95 (by have := HB_9.out.size; have := HZA95.out; omega) (fun r hr => by injection hr with hr; have := HB_9.out.size; omega)); have HNE95_1 : Hid (w.heap.size ≠ b9.heap.size) := Lib.hid (by have := RY_9.out.lt; omega); have HNE95_2 : Hid (a1.heap.size ≠ b9.heap.size) := Lib.hid (by have := RR_9.out.lt; omega); have HGE95 : Hid (w.heap.size ≤ b9.heap.size) := Lib.hid HB_9.out.size; clear hr95 hg95 hz95 HA95 HZA95 HGA95 RY_9 RR_9 HB_9)) | ((with_reducible show wpList _ _ _ (⟨_, .load 23 (.tmp 5), _, _, _, _⟩ :: _) _ _); go_must (refine wpList_exec rfl (vN y) (exec_loadF (.tmp 5) rfl (b9.heap.size) 0 0 rfl [y] y rfl Ngy_95.out rfl) ?_)) | fail)
  rw [HO.out]
  generalize b9.heap.size = gy at *
  generalize a1.heap.size = gr at *
  refine (C1.out _).mono ?_
  rintro e96 x96 ⟨rfl, hb96⟩
  have RY_96 := Lib.hid (RY_95.out.keep hb96)
  have RR_96 := Lib.hid (RR_95.out.keep hb96)
  have Ngy_96 := Lib.hid (Ngy_95.out.keep hb96)
  have HF_96 : Hid (Below w.heap.size w x96) := Lib.hid (HF_95.out.trans (hb96.mono HF_95.out.size))
  clear hb96 RY_95 RR_95 Ngy_95 HF_95
  cases c
  · go_wp2_with (first | ((with_reducible show wpList _ _ _ (⟨_, .build 35 #[], _, _, _, _⟩ :: _) _ _); go_must (refine wpList_exec rfl (vR [0, 0]) (exec_buildc rfl (by kernel_rfl)) ?_)) | ((with_reducible show wpList _ _ _ (⟨none, .store 35 (.tmp 2) (.tmp 20), _, _, _, _⟩ :: _) _ _); go_must (refine wpList_storeP rfl (.tmp 2) (.tmp 20) rfl (gr) [0, 0] 0 0 rfl rfl RR_96.out rfl ?_; intro y97 hr97 hg97 hz97; have RY_97 := Lib.hid (RY_96.out.grown hg97 (by have := HNE0.out; simp; omega)); have RR_97 : Hid (RAt y97 gr [0, 0]) := Lib.hid hr97; have Ngy_97 := Lib.hid (Ngy_96.out.grown hg97 (by have := HNE95_2.out; simp; omega)); have HF_97 : Hid (Below w.heap.size w y97) := Lib.hid (HF_96.out.grown hg97 HF_96.out.size (fun r hr => by injection hr with hr; have := HGE.out; omega)); clear hr97 hg97 hz97 RY_96 RR_96 Ngy_96 HF_96)) | fail)
    obtain ⟨tr, htr⟩ := RR_97.out
    obtain ⟨rfl, rfl, rfl⟩ : 0 = rx ∧ 0 = ry ∧ (4 : Int) = re := HRES.out
    exact bodyPost_ret (results_cell2 rfl _ _ gr tr (bcs (encs [0, 0])).toArray (0, 0) _ rfl htr Try.underlying35 rfl (by rw [List.size_toArray, bcs_len, encs_len]; exact size35)) rfl ⟨rfl, HF_97.out⟩
  · go_wp2_with (first | ((with_reducible show wpList _ _ _ (⟨_, .load 23 (.tmp 5), _, _, _, _⟩ :: _) _ _); go_must (refine wpList_exec rfl (vN y) (exec_loadF (.tmp 5) rfl (gy) 0 0 rfl [y] y rfl Ngy_96.out rfl) ?_)) | fail)
    refine (C2.out _).mono ?_
    rintro e98 x98 ⟨rfl, hb98⟩
    have RY_98 := Lib.hid (RY_96.out.keep hb98)
    have RR_98 := Lib.hid (RR_96.out.keep hb98)
    have Ngy_98 := Lib.hid (Ngy_96.out.keep hb98)
    have HF_98 : Hid (Below w.heap.size w x98) := Lib.hid (HF_96.out.trans (hb98.mono HF_96.out.size))
    clear hb98 RY_96 RR_96 Ngy_96 HF_96
    cases ok
    · go_wp2_with (first | ((with_reducible show wpList _ _ _ (⟨some 6, .alloc 23, _, _, _, _⟩ :: _) _ _); go_must (refine wpList_alloc_row rfl 23 rfl (.agg (zbs 32)) zero23 ?_; intro u99 ha99 hza99 hga99; have HA99 := Lib.hid ha99; have HZA99 := Lib.hid hza99; have HGA99 := Lib.hid hga99; clear ha99 hza99 hga99)) | ((with_reducible show wpList _ _ _ (⟨none, .store 23 (.tmp 6) (.tmp 24), _, _, _, _⟩ :: _) _ _); go_must (refine wpList_storeF rfl (.tmp 6) (.tmp 24) rfl (x98.heap.size) 0 0 rfl [0] x rfl rfl (zrow (k := 1) HA99.out) (show 0 < 1 by omega) ?_; intro y99 hr99 hg99 hz99; have RY_99 := Lib.hid ((RY_98.out.grown HGA99.out (by simp)).grown hg99 (by have := RY_98.out.lt; simp; omega)); have RR_99 := Lib.hid ((RR_98.out.grown HGA99.out (by simp)).grown hg99 (by have := RR_98.out.lt; simp; omega)); have Ngy_99 := Lib.hid ((Ngy_98.out.grown HGA99.out (by simp)).grown hg99 (by have := Ngy_98.out.lt; simp; omega)); have Ngx_99 : Hid (RAt y99 x98.heap.size [x]) := Lib.hid hr99; have HF_99 : Hid (Below w.heap.size w y99) := Lib.hid ((HF_98.out.grown HGA99.out HF_98.out.size (by simp)).grown hg99 (by have := HF_98.out.size; have := HZA99.out; omega) (fun r hr => by injection hr with hr; have := HF_98.out.size; omega)); have HNE99_3 : Hid (w.heap.size ≠ x98.heap.size) := Lib.hid (by have := RY_98.out.lt; omega); have HNE99_4 : Hid (gr ≠ x98.heap.size) := Lib.hid (by have := RR_98.out.lt; omega); have HNE99_5 : Hid (gy ≠ x98.heap.size) := Lib.hid (by have := Ngy_98.out.lt; omega); have HGE99 : Hid (w.heap.size ≤ x98.heap.size) := Lib.hid HF_98.out.size; clear hr99 hg99 hz99 HA99 HZA99 HGA99 RY_98 RR_98 Ngy_98 HF_98)) | ((with_reducible show wpList _ _ _ (⟨_, .build 35 #[], _, _, _, _⟩ :: _) _ _); go_must (refine wpList_exec rfl (vR [0, 0]) (exec_buildc rfl (by kernel_rfl)) ?_)) | ((with_reducible show wpList _ _ _ (⟨none, .store 35 (.tmp 2) (.tmp 36), _, _, _, _⟩ :: _) _ _); go_must (refine wpList_storeP rfl (.tmp 2) (.tmp 36) rfl (gr) [0, 0] 0 0 rfl rfl RR_99.out rfl ?_; intro y100 hr100 hg100 hz100; have RY_100 := Lib.hid (RY_99.out.grown hg100 (by have := HNE0.out; simp; omega)); have RR_100 : Hid (RAt y100 gr [0, 0]) := Lib.hid hr100; have Ngy_100 := Lib.hid (Ngy_99.out.grown hg100 (by have := HNE95_2.out; simp; omega)); have Ngx_100 := Lib.hid (Ngx_99.out.grown hg100 (by have := HNE99_4.out; simp; omega)); have HF_100 : Hid (Below w.heap.size w y100) := Lib.hid (HF_99.out.grown hg100 HF_99.out.size (fun r hr => by injection hr with hr; have := HGE.out; omega)); clear hr100 hg100 hz100 RY_99 RR_99 Ngy_99 Ngx_99 HF_99)) | fail)
      generalize x98.heap.size = gx at *
      obtain ⟨tr, htr⟩ := RR_100.out
      obtain ⟨rfl, rfl, rfl⟩ : 0 = rx ∧ 0 = ry ∧ (4 : Int) = re := HRES.out
      exact bodyPost_ret (results_cell2 rfl _ _ gr tr (bcs (encs [0, 0])).toArray (0, 0) _ rfl htr Try.underlying35 rfl (by rw [List.size_toArray, bcs_len, encs_len]; exact size35)) rfl ⟨rfl, HF_100.out⟩
    · cases odd
      · go_wp2_with (first | ((with_reducible show wpList _ _ _ (⟨some 6, .alloc 23, _, _, _, _⟩ :: _) _ _); go_must (refine wpList_alloc_row rfl 23 rfl (.agg (zbs 32)) zero23 ?_; intro u101 ha101 hza101 hga101; have HA101 := Lib.hid ha101; have HZA101 := Lib.hid hza101; have HGA101 := Lib.hid hga101; clear ha101 hza101 hga101)) | ((with_reducible show wpList _ _ _ (⟨none, .store 23 (.tmp 6) (.tmp 24), _, _, _, _⟩ :: _) _ _); go_must (refine wpList_storeF rfl (.tmp 6) (.tmp 24) rfl (x98.heap.size) 0 0 rfl [0] x rfl rfl (zrow (k := 1) HA101.out) (show 0 < 1 by omega) ?_; intro y101 hr101 hg101 hz101; have RY_101 := Lib.hid ((RY_98.out.grown HGA101.out (by simp)).grown hg101 (by have := RY_98.out.lt; simp; omega)); have RR_101 := Lib.hid ((RR_98.out.grown HGA101.out (by simp)).grown hg101 (by have := RR_98.out.lt; simp; omega)); have Ngy_101 := Lib.hid ((Ngy_98.out.grown HGA101.out (by simp)).grown hg101 (by have := Ngy_98.out.lt; simp; omega)); have Ngx_101 : Hid (RAt y101 x98.heap.size [x]) := Lib.hid hr101; have HF_101 : Hid (Below w.heap.size w y101) := Lib.hid ((HF_98.out.grown HGA101.out HF_98.out.size (by simp)).grown hg101 (by have := HF_98.out.size; have := HZA101.out; omega) (fun r hr => by injection hr with hr; have := HF_98.out.size; omega)); have HNE101_3 : Hid (w.heap.size ≠ x98.heap.size) := Lib.hid (by have := RY_98.out.lt; omega); have HNE101_4 : Hid (gr ≠ x98.heap.size) := Lib.hid (by have := RR_98.out.lt; omega); have HNE101_5 : Hid (gy ≠ x98.heap.size) := Lib.hid (by have := Ngy_98.out.lt; omega); have HGE101 : Hid (w.heap.size ≤ x98.heap.size) := Lib.hid HF_98.out.size; clear hr101 hg101 hz101 HA101 HZA101 HGA101 RY_98 RR_98 Ngy_98 HF_98)) | ((with_reducible show wpList _ _ _ (⟨some 40, .load 23 (.tmp 6), _, _, _, _⟩ :: _) _ _); go_must (refine wpList_exec rfl (vN x) (exec_loadF (.tmp 6) rfl (x98.heap.size) 0 0 rfl [x] x rfl Ngx_101.out rfl) ?_)) | ((with_reducible show wpList _ _ _ (⟨_, .load 23 (.tmp 5), _, _, _, _⟩ :: _) _ _); go_must (refine wpList_exec rfl (vN y) (exec_loadF (.tmp 5) rfl (gy) 0 0 rfl [y] y rfl Ngy_101.out rfl) ?_)) | ((with_reducible show wpList _ _ _ (⟨_, .build 35 _, _, _, _, _⟩ :: _) _ _); go_must (refine wpList_exec rfl (vR [x, y]) (exec_build35 (.tmp 40) (.tmp 41) x y rfl rfl rfl) ?_)) | ((with_reducible show wpList _ _ _ (⟨none, .store 35 (.tmp 2) (.tmp 42), _, _, _, _⟩ :: _) _ _); go_must (refine wpList_storeP rfl (.tmp 2) (.tmp 42) rfl (gr) [0, 0] x y rfl rfl RR_101.out rfl ?_; intro y102 hr102 hg102 hz102; have RY_102 := Lib.hid (RY_101.out.grown hg102 (by have := HNE0.out; simp; omega)); have RR_102 : Hid (RAt y102 gr [x, y]) := Lib.hid hr102; have Ngy_102 := Lib.hid (Ngy_101.out.grown hg102 (by have := HNE95_2.out; simp; omega)); have Ngx_102 := Lib.hid (Ngx_101.out.grown hg102 (by have := HNE101_4.out; simp; omega)); have HF_102 : Hid (Below w.heap.size w y102) := Lib.hid (HF_101.out.grown hg102 HF_101.out.size (fun r hr => by injection hr with hr; have := HGE.out; omega)); clear hr102 hg102 hz102 RY_101 RR_101 Ngy_101 Ngx_101 HF_101)) | fail)
        generalize x98.heap.size = gx at *
        obtain ⟨tr, htr⟩ := RR_102.out
        obtain ⟨rfl, rfl, rfl⟩ : x = rx ∧ y = ry ∧ (0 : Int) = re := HRES.out
        exact bodyPost_ret (results_cell2 rfl _ _ gr tr (bcs (encs [x, y])).toArray (0, 0) _ rfl htr Try.underlying35 rfl (by rw [List.size_toArray, bcs_len, encs_len]; exact size35)) rfl ⟨rfl, HF_102.out⟩
      · cases z
        · go_wp2_with (first | ((with_reducible show wpList _ _ _ (⟨some 6, .alloc 23, _, _, _, _⟩ :: _) _ _); go_must (refine wpList_alloc_row rfl 23 rfl (.agg (zbs 32)) zero23 ?_; intro u103 ha103 hza103 hga103; have HA103 := Lib.hid ha103; have HZA103 := Lib.hid hza103; have HGA103 := Lib.hid hga103; clear ha103 hza103 hga103)) | ((with_reducible show wpList _ _ _ (⟨none, .store 23 (.tmp 6) (.tmp 24), _, _, _, _⟩ :: _) _ _); go_must (refine wpList_storeF rfl (.tmp 6) (.tmp 24) rfl (x98.heap.size) 0 0 rfl [0] x rfl rfl (zrow (k := 1) HA103.out) (show 0 < 1 by omega) ?_; intro y103 hr103 hg103 hz103; have RY_103 := Lib.hid ((RY_98.out.grown HGA103.out (by simp)).grown hg103 (by have := RY_98.out.lt; simp; omega)); have RR_103 := Lib.hid ((RR_98.out.grown HGA103.out (by simp)).grown hg103 (by have := RR_98.out.lt; simp; omega)); have Ngy_103 := Lib.hid ((Ngy_98.out.grown HGA103.out (by simp)).grown hg103 (by have := Ngy_98.out.lt; simp; omega)); have Ngx_103 : Hid (RAt y103 x98.heap.size [x]) := Lib.hid hr103; have HF_103 : Hid (Below w.heap.size w y103) := Lib.hid ((HF_98.out.grown HGA103.out HF_98.out.size (by simp)).grown hg103 (by have := HF_98.out.size; have := HZA103.out; omega) (fun r hr => by injection hr with hr; have := HF_98.out.size; omega)); have HNE103_3 : Hid (w.heap.size ≠ x98.heap.size) := Lib.hid (by have := RY_98.out.lt; omega); have HNE103_4 : Hid (gr ≠ x98.heap.size) := Lib.hid (by have := RR_98.out.lt; omega); have HNE103_5 : Hid (gy ≠ x98.heap.size) := Lib.hid (by have := Ngy_98.out.lt; omega); have HGE103 : Hid (w.heap.size ≤ x98.heap.size) := Lib.hid HF_98.out.size; clear hr103 hg103 hz103 HA103 HZA103 HGA103 RY_98 RR_98 Ngy_98 HF_98)) | ((with_reducible show wpList _ _ _ (⟨_, .load 23 (.tmp 6), _, _, _, _⟩ :: _) _ _); go_must (refine wpList_exec rfl (vN x) (exec_loadF (.tmp 6) rfl (x98.heap.size) 0 0 rfl [x] x rfl Ngx_103.out rfl) ?_)) | ((with_reducible show wpList _ _ _ (⟨_, .build 23 #[], _, _, _, _⟩ :: _) _ _); go_must (refine wpList_exec rfl (vN 0) (exec_build0 rfl) ?_)) | ((with_reducible show wpList _ _ _ (⟨_, .binOp .eql 23 (.tmp 31) (.tmp 32) 23, _, _, _, _⟩ :: _) _ _); go_must (refine wpList_exec rfl (.bool false) (exec_eq23 (.tmp 31) (.tmp 32) rfl rfl rfl (HE.out _)) ?_)) | fail)
          generalize x98.heap.size = gx at *
          refine (C3.out _).mono ?_
          rintro e104 x104 ⟨rfl, hb104⟩
          have RY_104 := Lib.hid (RY_103.out.keep hb104)
          have RR_104 := Lib.hid (RR_103.out.keep hb104)
          have Ngy_104 := Lib.hid (Ngy_103.out.keep hb104)
          have Ngx_104 := Lib.hid (Ngx_103.out.keep hb104)
          have HF_104 : Hid (Below w.heap.size w x104) := Lib.hid (HF_103.out.trans (hb104.mono HF_103.out.size))
          clear hb104 RY_103 RR_103 Ngy_103 Ngx_103 HF_103
          go_wp2_with (first | ((with_reducible show wpList _ _ _ (⟨none, .store 23 (.tmp 6) (.tmp 39), _, _, _, _⟩ :: _) _ _); go_must (refine wpList_storeF rfl (.tmp 6) (.tmp 39) rfl (gx) 0 0 rfl [x] m rfl rfl Ngx_104.out (show 0 < 1 by omega) ?_; intro y105 hr105 hg105 hz105; have RY_105 := Lib.hid (RY_104.out.grown hg105 (by have := HNE103_3.out; simp; omega)); have RR_105 := Lib.hid (RR_104.out.grown hg105 (by have := HNE103_4.out; simp; omega)); have Ngy_105 := Lib.hid (Ngy_104.out.grown hg105 (by have := HNE103_5.out; simp; omega)); have Ngx_105 : Hid (RAt y105 gx [m]) := Lib.hid hr105; have HF_105 : Hid (Below w.heap.size w y105) := Lib.hid (HF_104.out.grown hg105 HF_104.out.size (fun r hr => by injection hr with hr; have := HGE103.out; omega)); clear hr105 hg105 hz105 RY_104 RR_104 Ngy_104 Ngx_104 HF_104)) | ((with_reducible show wpList _ _ _ (⟨_, .load 23 (.tmp 6), _, _, _, _⟩ :: _) _ _); go_must (refine wpList_exec rfl (vN m) (exec_loadF (.tmp 6) rfl (gx) 0 0 rfl [m] m rfl Ngx_105.out rfl) ?_)) | ((with_reducible show wpList _ _ _ (⟨_, .load 23 (.tmp 5), _, _, _, _⟩ :: _) _ _); go_must (refine wpList_exec rfl (vN y) (exec_loadF (.tmp 5) rfl (gy) 0 0 rfl [y] y rfl Ngy_105.out rfl) ?_)) | ((with_reducible show wpList _ _ _ (⟨_, .build 35 _, _, _, _, _⟩ :: _) _ _); go_must (refine wpList_exec rfl (vR [m, y]) (exec_build35 (.tmp 40) (.tmp 41) m y rfl rfl rfl) ?_)) | ((with_reducible show wpList _ _ _ (⟨none, .store 35 (.tmp 2) (.tmp 42), _, _, _, _⟩ :: _) _ _); go_must (refine wpList_storeP rfl (.tmp 2) (.tmp 42) rfl (gr) [0, 0] m y rfl rfl RR_105.out rfl ?_; intro y106 hr106 hg106 hz106; have RY_106 := Lib.hid (RY_105.out.grown hg106 (by have := HNE0.out; simp; omega)); have RR_106 : Hid (RAt y106 gr [m, y]) := Lib.hid hr106; have Ngy_106 := Lib.hid (Ngy_105.out.grown hg106 (by have := HNE95_2.out; simp; omega)); have Ngx_106 := Lib.hid (Ngx_105.out.grown hg106 (by have := HNE103_4.out; simp; omega)); have HF_106 : Hid (Below w.heap.size w y106) := Lib.hid (HF_105.out.grown hg106 HF_105.out.size (fun r hr => by injection hr with hr; have := HGE.out; omega)); clear hr106 hg106 hz106 RY_105 RR_105 Ngy_105 Ngx_105 HF_105)) | fail)
          obtain ⟨tr, htr⟩ := RR_106.out
          obtain ⟨rfl, rfl, rfl⟩ : m = rx ∧ y = ry ∧ (0 : Int) = re := HRES.out
          exact bodyPost_ret (results_cell2 rfl _ _ gr tr (bcs (encs [m, y])).toArray (0, 0) _ rfl htr Try.underlying35 rfl (by rw [List.size_toArray, bcs_len, encs_len]; exact size35)) rfl ⟨rfl, HF_106.out⟩
        · go_wp2_with (first | ((with_reducible show wpList _ _ _ (⟨some 6, .alloc 23, _, _, _, _⟩ :: _) _ _); go_must (refine wpList_alloc_row rfl 23 rfl (.agg (zbs 32)) zero23 ?_; intro u107 ha107 hza107 hga107; have HA107 := Lib.hid ha107; have HZA107 := Lib.hid hza107; have HGA107 := Lib.hid hga107; clear ha107 hza107 hga107)) | ((with_reducible show wpList _ _ _ (⟨none, .store 23 (.tmp 6) (.tmp 24), _, _, _, _⟩ :: _) _ _); go_must (refine wpList_storeF rfl (.tmp 6) (.tmp 24) rfl (x98.heap.size) 0 0 rfl [0] x rfl rfl (zrow (k := 1) HA107.out) (show 0 < 1 by omega) ?_; intro y107 hr107 hg107 hz107; have RY_107 := Lib.hid ((RY_98.out.grown HGA107.out (by simp)).grown hg107 (by have := RY_98.out.lt; simp; omega)); have RR_107 := Lib.hid ((RR_98.out.grown HGA107.out (by simp)).grown hg107 (by have := RR_98.out.lt; simp; omega)); have Ngy_107 := Lib.hid ((Ngy_98.out.grown HGA107.out (by simp)).grown hg107 (by have := Ngy_98.out.lt; simp; omega)); have Ngx_107 : Hid (RAt y107 x98.heap.size [x]) := Lib.hid hr107; have HF_107 : Hid (Below w.heap.size w y107) := Lib.hid ((HF_98.out.grown HGA107.out HF_98.out.size (by simp)).grown hg107 (by have := HF_98.out.size; have := HZA107.out; omega) (fun r hr => by injection hr with hr; have := HF_98.out.size; omega)); have HNE107_3 : Hid (w.heap.size ≠ x98.heap.size) := Lib.hid (by have := RY_98.out.lt; omega); have HNE107_4 : Hid (gr ≠ x98.heap.size) := Lib.hid (by have := RR_98.out.lt; omega); have HNE107_5 : Hid (gy ≠ x98.heap.size) := Lib.hid (by have := Ngy_98.out.lt; omega); have HGE107 : Hid (w.heap.size ≤ x98.heap.size) := Lib.hid HF_98.out.size; clear hr107 hg107 hz107 HA107 HZA107 HGA107 RY_98 RR_98 Ngy_98 HF_98)) | ((with_reducible show wpList _ _ _ (⟨some 31, .load 23 (.tmp 6), _, _, _, _⟩ :: _) _ _); go_must (refine wpList_exec rfl (vN x) (exec_loadF (.tmp 6) rfl (x98.heap.size) 0 0 rfl [x] x rfl Ngx_107.out rfl) ?_)) | ((with_reducible show wpList _ _ _ (⟨_, .build 23 #[], _, _, _, _⟩ :: _) _ _); go_must (refine wpList_exec rfl (vN 0) (exec_build0 rfl) ?_)) | ((with_reducible show wpList _ _ _ (⟨_, .binOp .eql 23 (.tmp 31) (.tmp 32) 23, _, _, _, _⟩ :: _) _ _); go_must (refine wpList_exec rfl (.bool true) (exec_eq23 (.tmp 31) (.tmp 32) rfl rfl rfl (HE.out _)) ?_)) | ((with_reducible show wpList _ _ _ (⟨_, .build 35 #[], _, _, _, _⟩ :: _) _ _); go_must (refine wpList_exec rfl (vR [0, 0]) (exec_buildc rfl (by kernel_rfl)) ?_)) | ((with_reducible show wpList _ _ _ (⟨none, .store 35 (.tmp 2) (.tmp 36), _, _, _, _⟩ :: _) _ _); go_must (refine wpList_storeP rfl (.tmp 2) (.tmp 36) rfl (gr) [0, 0] 0 0 rfl rfl RR_107.out rfl ?_; intro y108 hr108 hg108 hz108; have RY_108 := Lib.hid (RY_107.out.grown hg108 (by have := HNE0.out; simp; omega)); have RR_108 : Hid (RAt y108 gr [0, 0]) := Lib.hid hr108; have Ngy_108 := Lib.hid (Ngy_107.out.grown hg108 (by have := HNE95_2.out; simp; omega)); have Ngx_108 := Lib.hid (Ngx_107.out.grown hg108 (by have := HNE107_4.out; simp; omega)); have HF_108 : Hid (Below w.heap.size w y108) := Lib.hid (HF_107.out.grown hg108 HF_107.out.size (fun r hr => by injection hr with hr; have := HGE.out; omega)); clear hr108 hg108 hz108 RY_107 RR_107 Ngy_107 Ngx_107 HF_107)) | fail)
          generalize x98.heap.size = gx at *
          obtain ⟨tr, htr⟩ := RR_108.out
          obtain ⟨rfl, rfl, rfl⟩ : 0 = rx ∧ 0 = ry ∧ (4 : Int) = re := HRES.out
          exact bodyPost_ret (results_cell2 rfl _ _ gr tr (bcs (encs [0, 0])).toArray (0, 0) _ rfl htr Try.underlying35 rfl (by rw [List.size_toArray, bcs_len, encs_len]; exact size35)) rfl ⟨rfl, HF_108.out⟩
end Go.Proofs.Ytgdimnbdnepbgaa
/- The curve chapter's examples. No statement is proved here. -/
namespace Go.Proofs.Ytgdimnbdnepbgaa
open Go.RowKit
set_option linter.unusedVariables false
set_option maxRecDepth 40000
set_option linter.unusedSimpArgs false

def oddOne : Nat := 57896044618658097711785492504343953926634992332820282019728792003956564819969

set_option maxHeartbeats 4000000 in
theorem clives_core (bx by' n1 : Nat) (w : World) (C1 : Hid (∀ w, Calls Try.prog 42 #[] w (Gives (vR [bx, by']) w))) (C2 : Hid (∀ w, Calls Try.prog 36 #[vR [bx, by']] w (Gives (.tuple #[vN by', .int .i64 0]) w)))
    (C3 : Hid (∀ w, Calls Try.prog 35 #[vN n1] w (Gives (.tuple #[vR [0, 0], .int .i64 4]) w))) (HN : Hid (vN oddOne = vN n1))
    (H0 : Hid (((enc by').getD 0 0).toNat = 88)) (HB : Hid (∀ i, 1 ≤ i → i < 32 → ((enc by').getD i 0).toNat = 102)) :
    Calls Try.prog 38 #[] w (Gives (.bool true) w) := by
  go_enter Try.func38, Try.ntmps38
  go_wp2_with fail
  refine (C1.out _).mono ?_
  rintro e x1 ⟨rfl, hb⟩
  have HF1 : Hid (Below w.heap.size w x1) := hb
  clear hb
  go_wp2_with fail
  refine (C2.out _).mono ?_
  rintro e x2 ⟨rfl, hb⟩
  have HF2 := Lib.hid (HF1.out.trans (hb.mono HF1.out.size))
  clear hb HF1
  go_wp2_with (first | ((with_reducible show wpList _ _ _ (⟨some 1, .alloc 22, _, _, _, _⟩ :: _) _ _); go_must (refine wpList_alloc_row rfl 22 rfl (.agg (zbs 32)) zero22 ?_; intro a1 h1 z1 g1; have H1 := Lib.hid h1; have Z1 := Lib.hid z1; have G1 := Lib.hid g1; clear h1 z1 g1)) | ((with_reducible show wpList _ _ _ (⟨none, .store 22 (.tmp 1) (.tmp 9), _, _, _, _⟩ :: _) _ _); go_must (refine wpList_store_all rfl 22 (.tmp 1) (.tmp 9) rfl (x2.heap.size) rfl (bcs (enc by')).toArray rfl 22 _ H1.out (by rw [List.size_toArray, bcs_enc_len]; exact size22) (by rw [List.size_toArray, bcs_enc_len]; rfl) (bcs_one _) ?_; intro b5 hh hg hz; have HA : Hid (BAt b5 x2.heap.size (enc by')) := Lib.hid ⟨enc_len _, 22, hh⟩; have HF3 : Hid (Below w.heap.size w b5) := Lib.hid ((HF2.out.grown G1.out HF2.out.size (by simp)).grown hg (by have := HF2.out.size; have := Z1.out; omega) (fun r hr => by injection hr with hr; have := HF2.out.size; omega)); clear hh hg hz H1 Z1 G1 HF2)) | fail)
  generalize x2.heap.size = g at *
  go_loopw [3] (fun i wr => ∃ n : Nat, n ≤ 32 ∧ i = .int .i64 n ∧ 1 ≤ n ∧ BAt wr g (enc by') ∧ Below w.heap.size w wr) (fun i _ => 32 - (intOf i).toNat)
  case atStart => exact ⟨1, by omega, rfl, by omega, HA.out, HF3.out⟩
  case round =>
    obtain ⟨n, hn, rfl, hn1, hp, hq⟩ := hrel
    have HA := Lib.hid hp
    have HF := Lib.hid hq
    clear hp hq HF3
    by_cases hlt : n < 32
    · have hni : (n : Int) < 32 := by omega
      have cn := HA.out.cell n hlt
      rw [HB.out n hn1 hlt] at cn
      go_wp2_with fail
      exact ⟨⟨n + 1, by omega, by go_num, by omega, HA.out, HF.out⟩, by simp [intOf]; omega⟩
    · obtain rfl : n = 32 := by omega
      go_wp2_with (first | ((with_reducible show wpList _ _ _ (⟨_, .build 22 _, _, _, _, _⟩ :: _) _ _); go_must (refine wpList_exec rfl (vN n1) (exec_buildc rfl (by rw [← HN.out]; kernel_rfl)) ?_)) | fail)
      refine (C3.out _).mono ?_
      rintro e x3 ⟨rfl, hb⟩
      have HA2 : Hid (BAt x3 g (enc by')) := Lib.hid (HA.out.keep hb)
      have HF4 := Lib.hid (HF.out.trans (hb.mono HF.out.size))
      clear hb HA HF
      go_wp2_with (first | ((with_reducible show wpList _ _ _ (⟨some 4, .alloc 35, _, _, _, _⟩ :: _) _ _); go_must (refine wpList_alloc_row rfl 35 rfl (.agg (zbs 64)) zero35 ?_; intro a2 h1 z1 g1; have R1 : Hid (RAt a2 x3.heap.size [0, 0]) := Lib.hid (zrow (k := 2) h1); have HA3 := Lib.hid (HA2.out.grown g1 (by simp)); have Z2 := Lib.hid z1; have HF5 := Lib.hid (HF4.out.grown g1 HF4.out.size (by simp)); clear h1 z1 g1)) | ((with_reducible show wpList _ _ _ (⟨none, .store 35 (.tmp 4) (.tmp 22), _, _, _, _⟩ :: _) _ _); go_must (refine wpList_storeP rfl (.tmp 4) (.tmp 22) rfl (x3.heap.size) [0, 0] 0 0 rfl rfl R1.out rfl ?_; intro b6 hr hg hz; have HA4 := Lib.hid (HA3.out.grown hg (by obtain ⟨_, t, ht⟩ := HA2.out; have := (Array.getElem?_eq_some_iff.1 ht).1; simp; omega)); have HF6 : Hid (Below w.heap.size w b6) := Lib.hid (HF5.out.grown hg HF5.out.size (fun r hr => by injection hr with hr; have := HF4.out.size; omega)); have c0 := HA4.out.cell 0 (by omega); rw [H0.out] at c0; clear hr hg hz R1 HA3 Z2 HF5 HA2)) | fail)
      go_ret
      exact ⟨rfl, HF6.out⟩
end Go.Proofs.Ytgdimnbdnepbgaa
/- Points compared; the curve's functions over points. No statement is proved here. -/
namespace Go.Proofs.Ytgdimnbdnepbgaa
open Go.RowKit
set_option linter.unusedVariables false
set_option maxRecDepth 40000
set_option linter.unusedSimpArgs false

theorem keyLits35 (m n : Nat) : Try.prog.keyLits 3 35 (vR [m, n]).cells.toList = some ((encs [m, n]).map fun b => Lit.int .u8 (b.toNat : Int)) := by
  have hc : (vR [m, n]).cells.toList = bcs (encs [m, n]) := rfl
  have hlen : (bcs (encs [m, n])).length = 64 := by rw [bcs_len, encs_len]; rfl
  have h35 : Try.prog.cellsOf 35 = 64 := by kernel_rfl
  have h23 : Try.prog.cellsOf 23 = 32 := by kernel_rfl
  have e1 : ((bcs (encs [m, n])).drop 0).take 32 = bcs (enc m) := by
    rw [List.drop_zero, encs, bcs_append, List.take_append_of_le_length (by rw [bcs_enc_len]; omega), List.take_of_length_le (by rw [bcs_enc_len]; omega)]
  have e2 : ((bcs (encs [m, n])).drop 32).take 32 = bcs (enc n) := by
    rw [encs, bcs_append, List.drop_append_of_le_length (by rw [bcs_enc_len]; omega), List.drop_of_length_le (by rw [bcs_enc_len]; omega), List.nil_append, encs_one, List.take_of_length_le (by rw [bcs_enc_len]; omega)]
  have k1 := keyLits23 (enc m) (enc_len m)
  have k2 := keyLits23 (enc n) (enc_len n)
  rw [show (Value.agg (bcs (enc m)).toArray).cells.toList = bcs (enc m) from rfl] at k1
  rw [show (Value.agg (bcs (enc n)).toArray).cells.toList = bcs (enc n) from rfl] at k2
  rw [hc]
  unfold Program.keyLits
  rw [Try.underlying35]
  simp only [hlen, h35, h23]
  rw [if_pos ⟨trivial, by kernel_rfl⟩]
  simp only [List.mapM_cons, List.mapM_nil, h23, e1, e2, k1, k2]
  show some (List.flatten [_, _]) = _
  rw [encs, encs_one, List.map_append]
  simp
theorem eqP (m n m' n' : Nat) (hm : m < TT) (hn : n < TT) (hm' : m' < TT) (hn' : n' < TT) (w : World) : (Op.equalIn 10000 35 (vR [m, n]) (vR [m', n'])).run Try.prog w = .ok (decide (m = m' ∧ n = n')) w := by
  have hk : Try.prog.keyTypeAt 3 35 = true := by kernel_rfl
  have hf : ∀ m n, (vR [m, n]).formed Try.prog 35 = true := by
    intro m n
    have hc : Try.prog.cellsOf 35 = 64 := by kernel_rfl
    have hl : (bcs (encs [m, n])).length = 64 := by rw [bcs_len, encs_len]; rfl
    simp [Value.formed, vR, hc, hl]
  obtain ⟨r, hr, hiff⟩ := run_equalIn_deep (P := Try.prog) 9997 3 35 hk w 3 3 _ _ _ _ (hf m n) (hf m' n') (keyLits35 m n) (keyLits35 m' n')
  rw [hr]
  congr 1
  have hl : encs [m, n] = encs [m', n'] ↔ m = m' ∧ n = n' := by
    constructor
    · intro h
      have h2 := List.append_inj h (by rw [enc_len, enc_len])
      refine ⟨enc_inj hm hm' h2.1, enc_inj hn hn' ?_⟩
      have h3 := h2.2
      rw [encs_one, encs_one] at h3
      exact h3
    · rintro ⟨rfl, rfl⟩; rfl
  by_cases h : m = m' ∧ n = n'
  · rw [decide_eq_true h]
    exact hiff.2 (by rw [hl.2 h])
  · rw [decide_eq_false h]
    cases r
    · rfl
    · exact absurd (hl.1 (lits_inj _ _ (hiff.1 rfl))) h
/-- A point's value. -/
def vPt (p : EC.Pt) : Value := vR [p.1.1.val, p.1.2.val]
noncomputable instance : DecidableEq EC.Pt := fun a b => Classical.propDecidable _
theorem pEq (p q : EC.Pt) (w : World) : (Op.equalIn 10000 35 (vPt p) (vPt q)).run Try.prog w = .ok (decide (p = q)) w := by
  unfold vPt
  rw [eqP _ _ _ _ (fT _) (fT _) (fT _) (fT _) w]
  congr 1
  rw [Bool.eq_iff_iff, decide_eq_true_eq, decide_eq_true_eq]
  constructor
  · rintro ⟨h1, h2⟩
    exact Subtype.ext (Prod.ext (Fin.ext h1) (Fin.ext h2))
  · rintro rfl
    exact ⟨rfl, rfl⟩
/-- The residue of any number. -/
def fO (n : Nat) : Fin PP := Fin.ofNat PP n
theorem fO_val (n : Nat) : (fO n).val = n % PP := rfl
theorem fO_of (a : Fin PP) : fO a.val = a := Fin.ext (Nat.mod_eq_of_lt a.isLt)
theorem fO_lt {n : Nat} (h : n < PP) : (fO n).val = n := Nat.mod_eq_of_lt h
def onB (X Y : Nat) : Bool := decide (fO Y * fO Y - fO X * fO X = 1 + dF * (fO X * fO X * (fO Y * fO Y)))
theorem rawMul (a b : Nat) (ha : a < TT) (hb : b < TT) (w : World) : Calls Try.prog 25 #[vN a, vN b] w (Gives (vN (fO a * fO b).val) w) :=
  gives_N (by rw [Fin.val_mul, fO_val, fO_val, ← Nat.mul_mod]) (Mul_any a b ha hb w)
theorem onCurve_any (X Y : Nat) (hX : X < TT) (hY : Y < TT) (w : World) : Calls Try.prog 79 #[vR [X, Y]] w (Gives (.bool (onB X Y)) w) :=
  onCurve_core X Y _ _ _ _ _ _ _ _ w (Lib.hid (rawMul X X hX hX)) (Lib.hid (rawMul Y Y hY hY)) (Lib.hid (fSub _ _)) (Lib.hid fun w => Of_any 1 (by omega) w) (Lib.hid fD) (Lib.hid (fMul _ _)) (Lib.hid (fMul _ _)) (Lib.hid fun w => by have h := fAdd 1 (dF * (fO X * fO X * (fO Y * fO Y))) w; rw [v1] at h; exact h) (Lib.hid (fEq _ _))
/-- What Check tells. -/
def chk (X Y : Nat) : Int := if decide (X = X % PP) && (decide (Y = Y % PP) && onB X Y) then 0 else 2
theorem Check_any (X Y : Nat) (hX : X < TT) (hY : Y < TT) (w : World) : Calls Try.prog 40 #[vR [X, Y]] w (Gives (.int .i64 (chk X Y)) w) :=
  Check_core X Y _ _ _ _ w (Lib.hid rfl) (Lib.hid (Canon_any X hX)) (Lib.hid (Canon_any Y hY)) (Lib.hid (onCurve_any X Y hX hY))
theorem chk_two (X Y : Nat) : chk X Y = 0 ∨ chk X Y = 2 := by
  unfold chk
  split
  · exact .inl rfl
  · exact .inr rfl
theorem chk_zero (X Y : Nat) (h : chk X Y = 0) : ∃ p : EC.Pt, vR [X, Y] = vPt p ∧ p.1.1.val = X ∧ p.1.2.val = Y := by
  unfold chk at h
  by_cases hc : (decide (X = X % PP) && (decide (Y = Y % PP) && onB X Y)) = true
  · simp only [Bool.and_eq_true, decide_eq_true_eq] at hc
    obtain ⟨h1, h2, h3⟩ := hc
    unfold onB at h3
    rw [decide_eq_true_eq] at h3
    have k1 : (fO X).val = X := by rw [fO_val, ← h1]
    have k2 : (fO Y).val = Y := by rw [fO_val, ← h2]
    exact ⟨⟨(fO X, fO Y), h3⟩, by unfold vPt; rw [k1, k2], k1, k2⟩
  · rw [if_neg hc] at h
    exact absurd h (by decide)
theorem chk_pt (p : EC.Pt) : chk p.1.1.val p.1.2.val = 0 := by
  unfold chk
  rw [if_pos]
  have h := p.2
  unfold Ed.On at h
  rw [Nat.mod_eq_of_lt p.1.1.isLt, Nat.mod_eq_of_lt p.1.2.isLt, decide_eq_true rfl, decide_eq_true rfl]
  unfold onB
  rw [fO_of, fO_of]
  simp only [Bool.true_and, decide_eq_true_eq]
  exact h
theorem pCheck (p : EC.Pt) (w : World) : Calls Try.prog 40 #[vPt p] w (Gives (.int .i64 0) w) := by
  have h := Check_any _ _ (fT p.1.1) (fT p.1.2) w
  rw [chk_pt] at h
  exact h
theorem pZero (w : World) : Calls Try.prog 39 #[] w (Gives (vPt EC.zero) w) := gives_V (by unfold vPt Ed.zero; rw [v1]; rfl) (Zero_any w)
/-- A point with Z 1. -/
def X4.of (p : EC.Pt) : X4 := ⟨p.1.1, p.1.2, 1, p.1.1 * p.1.2⟩
theorem F_mul_one (a : Fin PP) : a * 1 = a := by grind
theorem X4.of_is (p : EC.Pt) : (X4.of p).Is p.1.1 p.1.2 := ⟨one_ne, (F_mul_one _).symm, (F_mul_one _).symm, (F_mul_one _).symm⟩
theorem of_l (p : EC.Pt) : (X4.of p).l = [p.1.1.val, p.1.2.val, 1, (p.1.1 * p.1.2).val] := by unfold X4.l X4.of; simp only [v1]
theorem pAdd (p q : EC.Pt) (w : World) : Calls Try.prog 44 #[vPt p, vPt q] w (Gives (vPt (EC.add p q)) w) := by
  have hs := ((X4.of_is p).sum (X4.of_is q) p.2 q.2).point
  have h := PAdd_core p.1.1.val p.1.2.val q.1.1.val q.1.2.val (p.1.1 * p.1.2).val (q.1.1 * q.1.2).val _ _ _ _ _ _ w (Lib.hid (pCheck p)) (Lib.hid (pCheck q))
    (Lib.hid fun w g g1 h0 h1 n1 => eread_any p.1.1 p.1.2 0 0 0 0 w g g1 h0 h1 n1) (Lib.hid fun w g g1 h0 h1 n1 => eread_any q.1.1 q.1.2 0 0 0 0 w g g1 h0 h1 n1)
    (Lib.hid fun w g g1 h0 h1 => eadd_any (X4.of p) (X4.of q) _ _ _ _ w g g g1 h0 (by rw [of_l]; exact h0) (by rw [of_l]; exact h1)) (Lib.hid fun w g h => epoint_any ((X4.of p).sum (X4.of q)) w g h)
  rw [hs.1, hs.2] at h
  exact h
theorem pNeg (p : EC.Pt) (w : World) : Calls Try.prog 51 #[vPt p] w (Gives (vPt (EC.neg p)) w) :=
  PNeg_core p.1.1.val p.1.2.val _ w (Lib.hid (pCheck p)) (Lib.hid (fNeg p.1.1))
end Go.Proofs.Ytgdimnbdnepbgaa
/- The curve's examples, Bytes and Read over points. No statement is proved here. -/
namespace Go.Proofs.Ytgdimnbdnepbgaa
open Go.RowKit
set_option linter.unusedVariables false
set_option maxRecDepth 40000
set_option linter.unusedSimpArgs false

theorem bxN_lt : bxN < PP := by unfold bxN PP; omega
theorem byN_lt : byN < PP := by unfold byN PP; omega
def bX : Fin PP := ⟨bxN, bxN_lt⟩
def bY : Fin PP := ⟨byN, byN_lt⟩
theorem base_on : bY * bY - bX * bX = 1 + dF * (bX * bX * (bY * bY)) := by decide +kernel
noncomputable def bP : EC.Pt := ⟨(bX, bY), base_on⟩
theorem pBase (w : World) : Calls Try.prog 42 #[] w (Gives (vPt bP) w) := Base_any w
theorem across_any (k : Nat) (hk : PP = 8 * k + 5) (y : Fin PP) (w : World) :
    Calls Try.prog 78 #[vN y.val] w (Gives (.tuple #[vN (rt PP k ((y * y - 1) * fInv (dF * (y * y) + 1)).val).1, .bool (rt PP k ((y * y - 1) * fInv (dF * (y * y) + 1)).val).2]) w) := by
  have hA : ∀ w, Calls Try.prog 19 #[vN (dF * (y * y)).val, vN 1] w (Gives (vN (dF * (y * y) + 1).val) w) := fun w => by
    have h := fAdd (dF * (y * y)) 1 w
    rw [v1] at h
    exact h
  have hS : ∀ w, Calls Try.prog 21 #[vN (y * y).val, vN 1] w (Gives (vN (y * y - 1).val) w) := fun w => by
    have h := fSub (y * y) 1 w
    rw [v1] at h
    exact h
  have hR := Root_any k hk ((y * y - 1) * fInv (dF * (y * y) + 1)).val (fT _)
  generalize rt PP k ((y * y - 1) * fInv (dF * (y * y) + 1)).val = r at *
  exact across_core y.val _ _ _ _ _ _ _ r.1 r.2 w (Lib.hid fun w => Of_any 1 (by omega) w) (Lib.hid (fMul y y)) (Lib.hid fD) (Lib.hid (fMul _ _)) (Lib.hid hA) (Lib.hid (fInvC _)) (Lib.hid hS) (Lib.hid (fMul _ _)) (Lib.hid hR)
theorem rt_zero (k : Nat) : rt PP k 0 = (0, true) := by
  have h0 : (0 % PP) ^ (k + 1) % PP = 0 := by rw [Nat.zero_mod, Nat.zero_pow (by omega), Nat.zero_mod]
  unfold rt
  rw [h0, Nat.zero_mul, Nat.zero_mod, if_pos rfl]
  rfl
theorem oddOne_t : ((enc oddOne).getD 31 0).toNat = 128 := by decide +kernel
theorem oddOne_s : (enc oddOne).set 31 (UInt8.ofNat 0) = enc 1 := by decide +kernel
theorem clives_any (w : World) : Calls Try.prog 38 #[] w (Gives (.bool true) w) := by
  obtain ⟨k, hk⟩ := k_ex
  have hO : ∀ w, Calls Try.prog 31 #[vN bxN] w (Gives (.bool false) w) := fun w => by
    have h := Odd_any bxN (Nat.lt_trans bxN_lt PP_lt) w
    rw [show decide (bxN % PP % 2 = 1) = false from by decide +kernel] at h
    exact h
  have hB : ∀ w, Calls Try.prog 36 #[vR [bxN, byN]] w (Gives (.tuple #[vN byN, .int .i64 0]) w) := fun w =>
    Bytes_core bxN byN byN false w (Lib.hid (pCheck bP)) (Lib.hid hO) (Lib.hid (by simp)) (Lib.hid (by decide +kernel))
  have hA : ∀ w, Calls Try.prog 78 #[vN 1] w (Gives (.tuple #[vN 0, .bool true]) w) := fun w => by
    have h := across_any k hk 1 w
    have e : ((1 * 1 - 1) * fInv (dF * (1 * 1) + 1) : Fin PP) = 0 := by
      generalize fInv (dF * (1 * 1) + 1) = v
      grind
    rw [e, v0, rt_zero, v1] at h
    exact h
  have hC : ∀ w, Calls Try.prog 15 #[vN 1] w (Gives (.bool true) w) := fun w => by
    have h := fCanon 1 w
    rw [v1] at h
    exact h
  have hN : ∀ w, Calls Try.prog 23 #[vN 0] w (Gives (vN 0) w) := fun w => gives_N (by unfold PP; omega) (Neg_any 0 (by unfold TT; omega) w)
  have hR : ∀ w, Calls Try.prog 35 #[vN oddOne] w (Gives (.tuple #[vR [0, 0], .int .i64 4]) w) := fun w =>
    Read_core oddOne 1 0 0 128 0 0 0 4 true true true true w (Lib.hid oddOne_t) (Lib.hid (by decide +kernel)) (Lib.hid (by decide +kernel)) (Lib.hid (by omega)) (Lib.hid oddOne_s) (Lib.hid hC) (Lib.hid hA) (Lib.hid hN) (Lib.hid (eqN_same 0)) (Lib.hid (by simp))
  exact clives_core bxN byN oddOne w (Lib.hid Base_any) (Lib.hid hB) (Lib.hid hR) (Lib.hid rfl) (Lib.hid (by decide +kernel)) (Lib.hid fun i h1 h2 => (by decide +kernel : ∀ i, i < 32 → 1 ≤ i → ((enc byN).getD i 0).toNat = 102) i h2 h1)
end Go.Proofs.Ytgdimnbdnepbgaa
/- The lexical order of a long region, checked in fewer steps. No statement is proved here. -/
namespace Go.Proofs.Ytgdimnbdnepbgaa
open Go.RowKit
set_option linter.unusedVariables false
set_option linter.unusedSimpArgs false

def lstd (k m : Nat) : Array Bool := (List.replicate k true ++ List.replicate m false).toArray
theorem lstd_get (k m j : Nat) (d : Bool) : (lstd k m).getD j d = if j < k then true else if j < k + m then false else d := by
  unfold lstd
  rw [Array.getD_eq_getD_getElem?, List.getElem?_toArray]
  by_cases h : j < k
  · rw [if_pos h, List.getElem?_append_left (by simpa using h), List.getElem?_replicate, if_pos h]; rfl
  · rw [if_neg h, List.getElem?_append_right (by simpa using Nat.le_of_not_lt h), List.getElem?_replicate, List.length_replicate]
    by_cases h2 : j < k + m
    · rw [if_pos h2, if_pos (by omega)]; rfl
    · rw [if_neg h2, if_neg (by omega)]; rfl
theorem lstd_set (k m : Nat) : (lstd k (m + 1)).setIfInBounds k true = lstd (k + 1) m := by
  unfold lstd
  apply Array.toList_inj.1
  rw [Array.toList_setIfInBounds]
  show (List.replicate k true ++ List.replicate (m + 1) false).set k true = List.replicate (k + 1) true ++ List.replicate m false
  rw [List.set_append_right _ _ (by simp), List.length_replicate, Nat.sub_self, List.replicate_succ, List.set_cons_zero]
  simp [List.replicate_succ', List.append_assoc]
def stepsOk (md : Region.Mode) (ops : Array Oper) : Nat → List Oper → Bool
  | _, [] => true
  | k, o :: l => (o.after.all fun e => !Region.binds md e || decide (e.on < k)) && ((l.all fun oj => oj.after.any (fun e => Region.binds md e && e.on == k) || o.apart ops oj) && stepsOk md ops (k + 1) l)
theorem lex_steps (md : Region.Mode) (ops : Array Oper) : ∀ (l : List Oper) (k : Nat), (∀ j, l[j]? = ops[k + j]?) → k + l.length = ops.size → stepsOk md ops k l = true → Region.lexFrom md ops l.length k (lstd k l.length) = true
  | [], k, _, hn, _ => by
    show (Region.ready md ops (lstd k 0)).isEmpty = true
    rw [List.isEmpty_iff, List.eq_nil_iff_forall_not_mem]
    intro j hj
    have h := (mem_ready.1 hj).1
    rw [lstd_get] at h
    by_cases h1 : j < k
    · rw [if_pos h1] at h; cases h
    · rw [if_neg h1, if_neg (by simpa using h1)] at h; cases h
  | o :: l, k, hl, hn, h => by
    have h0 : ops[k]? = some o := by simpa using (hl 0).symm
    simp only [stepsOk, Bool.and_eq_true] at h
    obtain ⟨h1, h2, h3⟩ := h
    show ((Region.ready md ops (lstd k (l.length + 1))).contains k && Region.free md ops (lstd k (l.length + 1)) k && Region.lexFrom md ops l.length (k + 1) ((lstd k (l.length + 1)).setIfInBounds k true)) = true
    rw [lstd_set, lex_steps md ops l (k + 1) (fun j => by have := hl (j + 1); simpa [Nat.add_assoc, Nat.add_comm 1 j] using this) (by simp only [List.length_cons] at hn; omega) h3, Bool.and_true, Bool.and_eq_true]
    constructor
    · rw [List.contains_iff_mem, mem_ready]
      refine ⟨by rw [lstd_get, if_neg (by omega), if_pos (by omega)], o, h0, fun e he hb => ?_⟩
      have := Array.all_eq_true_iff_forall_mem.1 h1 e he
      rw [hb] at this
      simp at this
      rw [lstd_get, if_pos this]
    · unfold Region.free
      rw [h0]
      simp only
      rw [List.all_eq_true]
      intro j hj
      rw [List.mem_range] at hj
      by_cases hjk : j = k
      · subst hjk; simp
      · by_cases hlt : j < k
        · rw [lstd_get, if_pos hlt]; simp
        · obtain ⟨i, rfl⟩ : ∃ i, j = k + (i + 1) := ⟨j - k - 1, by omega⟩
          have hli : (o :: l)[i + 1]? = ops[k + (i + 1)]? := hl (i + 1)
          rw [List.getElem?_cons_succ] at hli
          rw [← hli]
          cases ho : l[i]? with
          | none => simp
          | some oj =>
            have hm := List.mem_of_getElem? ho
            have := List.all_eq_true.1 h2 oj hm
            simp only [Bool.or_eq_true] at this ⊢
            exact .inr this
theorem lexB_steps (md : Region.Mode) (l : List Oper) (h1 : Region.noSelect l.toArray = true) (h2 : stepsOk md l.toArray 0 l = true) : Region.lexB md l.toArray = true := by
  unfold Region.lexB
  rw [h1, Bool.true_and]
  have h := lex_steps md l.toArray l 0 (fun j => by rw [Nat.zero_add, List.getElem?_toArray]) (by simp) h2
  have e : (Array.replicate l.toArray.size false) = lstd 0 l.length := by
    unfold lstd
    apply Array.toList_inj.1
    simp
  rw [e]
  simpa using h
/-- A long region. -/
theorem region_wq2 {id : Nat} {Q : Exit → Act → World → Prop} {a : Act} {w : World} {l : List Oper} (hm : Try.prog.follows .mixedOrders = true) (h1 : Region.noSelect l.toArray = true) (h2 : stepsOk .any l.toArray 0 l = true)
    (h : WQ Try.prog l.toArray (CB w) (fun a' => ∀ w', Below w.heap.size w w' → Q .normal a' w') l a) : (Code.region id l.toArray true).wp Try.prog Q a w := region_wq hm (lexB_steps _ _ h1 h2) h
end Go.Proofs.Ytgdimnbdnepbgaa
/- Points that come in; steps of quiet regions over points. No statement is proved here. -/
namespace Go.Proofs.Ytgdimnbdnepbgaa
open Go.RowKit
set_option linter.unusedVariables false
set_option maxRecDepth 40000
set_option linter.unusedSimpArgs false

section
variable {ops : Array Oper} {rest : List Oper} {o : Oper} {a : Act} {w0 : World} {Q : Act → Prop}
theorem wq_loadP (hw : Region.wanted o (yielded ops a.tmps) = true) (x : Operand) (ho : o.op = .load 35 x) (g m n : Nat) (hx : a.eval x = .pointer (some ⟨g, 0, none⟩)) (hr : RAt w0 g [m, n]) (h : WQ Try.prog ops (CB w0) Q rest (a.put o.dst (vR [m, n]))) : WQ Try.prog ops (CB w0) Q (o :: rest) a :=
  ⟨qb_val hw _ (fun w hk => exec_loadP x ho g m n hx (hr.keep hk)) h.out⟩
theorem wq_loadF (hw : Region.wanted o (yielded ops a.tmps) = true) (x : Operand) (ho : o.op = .load 23 x) (g i off : Nat) (he : off = 32 * i) (l : List Nat) (n : Nat) (hx : a.eval x = .pointer (some ⟨g, off, none⟩)) (hr : RAt w0 g l) (hn : l[i]? = some n) (h : WQ Try.prog ops (CB w0) Q rest (a.put o.dst (vN n))) : WQ Try.prog ops (CB w0) Q (o :: rest) a :=
  ⟨qb_val hw _ (fun w hk => exec_loadF x ho g i off he l n hx (hr.keep hk) hn) h.out⟩
theorem wq_load22 (hw : Region.wanted o (yielded ops a.tmps) = true) (x : Operand) (ho : o.op = .load 22 x) (g n : Nat) (hx : a.eval x = .pointer (some ⟨g, 0, none⟩)) (hr : RAt w0 g [n]) (h : WQ Try.prog ops (CB w0) Q rest (a.put o.dst (vN n))) : WQ Try.prog ops (CB w0) Q (o :: rest) a :=
  ⟨qb_val hw _ (fun w hk => exec_load22 x ho g 0 0 rfl [n] n hx (hr.keep hk) rfl) h.out⟩
theorem wq_field (hw : Region.wanted o (yielded ops a.tmps) = true) (t : TypeId) (x : Operand) (i : Nat) (ho : o.op = .fieldAddr t x i) (g off : Nat) (hx : a.eval x = .pointer (some ⟨g, 0, none⟩)) (hr : ∀ w, (Instr.fieldAt t (.pointer (some ⟨g, 0, none⟩)) i).run Try.prog w = .ok (.pointer (some ⟨g, off, none⟩)) w)
    (h : WQ Try.prog ops (CB w0) Q rest (a.put o.dst (.pointer (some ⟨g, off, none⟩)))) : WQ Try.prog ops (CB w0) Q (o :: rest) a :=
  ⟨qb_val hw _ (fun w _ => exec_field t x i ho g off hx hr) h.out⟩
theorem wq_buildc (hw : Region.wanted o (yielded ops a.tmps) = true) (t : TypeId) (parts : Array (Nat × Operand)) (v : Value) (ho : o.op = .build t parts) (hr : ∀ w, (Instr.build t (parts.map fun (i, x) => (i, a.eval x))).run Try.prog w = .ok v w) (h : WQ Try.prog ops (CB w0) Q rest (a.put o.dst v)) : WQ Try.prog ops (CB w0) Q (o :: rest) a :=
  ⟨qb_val hw _ (fun w _ => exec_buildc ho (hr w)) h.out⟩
theorem exec_eqP {w : World} {m n m' n' : Nat} {b : Bool} (x y : Operand) (ho : o.op = .binOp .eql 35 x y 35) (hx : a.eval x = vR [m, n]) (hy : a.eval y = vR [m', n']) (hb : (Op.equalIn 10000 35 (vR [m, n]) (vR [m', n'])).run Try.prog w = .ok b w) : (execOp a.eval o).run Try.prog w = .ok (.value (.bool b)) w := by
  have hg : ∀ (x y : Operand), (eqGuard .eql 35 x y (vR [m, n]) (vR [m', n'])).run Try.prog w = .ok () w := fun x y => run_eqGuard_agg w .eql 35 x y _ _ Try.eqGuardType35
  have hbin : (binOp .eql 35 (vR [m, n]) (vR [m', n'])).run Try.prog w = .ok (.bool b) w := by
    show (do pure (.bool (← Op.equal 35 (vR [m, n]) (vR [m', n']))) : Sem Value).run Try.prog w = _
    rw [Sem.run_bind, show (Op.equal 35 (vR [m, n]) (vR [m', n'])) = Op.equalIn 10000 35 (vR [m, n]) (vR [m', n']) from rfl, hb]
    rfl
  unfold execOp
  simp only [ho, hx, hy, Sem.run_bind, Sem.run_pure, Result.andThen_ok, hg, hbin]
theorem exec_neqP {w : World} {m n m' n' : Nat} {b : Bool} (x y : Operand) (ho : o.op = .binOp .neq 35 x y 35) (hx : a.eval x = vR [m, n]) (hy : a.eval y = vR [m', n']) (hb : (Op.equalIn 10000 35 (vR [m, n]) (vR [m', n'])).run Try.prog w = .ok b w) : (execOp a.eval o).run Try.prog w = .ok (.value (.bool (!b))) w := by
  have hg : ∀ (x y : Operand), (eqGuard .neq 35 x y (vR [m, n]) (vR [m', n'])).run Try.prog w = .ok () w := fun x y => run_eqGuard_agg w .neq 35 x y _ _ Try.eqGuardType35
  have hbin : (binOp .neq 35 (vR [m, n]) (vR [m', n'])).run Try.prog w = .ok (.bool (!b)) w := by
    show (do pure (.bool (!(← Op.equal 35 (vR [m, n]) (vR [m', n'])))) : Sem Value).run Try.prog w = _
    rw [Sem.run_bind, show (Op.equal 35 (vR [m, n]) (vR [m', n'])) = Op.equalIn 10000 35 (vR [m, n]) (vR [m', n']) from rfl, hb]
    rfl
  unfold execOp
  simp only [ho, hx, hy, Sem.run_bind, Sem.run_pure, Result.andThen_ok, hg, hbin]
theorem wq_eqP (hw : Region.wanted o (yielded ops a.tmps) = true) (x y : Operand) (ho : o.op = .binOp .eql 35 x y 35) (m n m' n' : Nat) (hx : a.eval x = vR [m, n]) (hy : a.eval y = vR [m', n']) (b : Bool) (hb : ∀ w, (Op.equalIn 10000 35 (vR [m, n]) (vR [m', n'])).run Try.prog w = .ok b w) (h : WQ Try.prog ops (CB w0) Q rest (a.put o.dst (.bool b))) : WQ Try.prog ops (CB w0) Q (o :: rest) a :=
  ⟨qb_val hw _ (fun w _ => exec_eqP x y ho hx hy (hb w)) h.out⟩
theorem wq_neqP (hw : Region.wanted o (yielded ops a.tmps) = true) (x y : Operand) (ho : o.op = .binOp .neq 35 x y 35) (m n m' n' : Nat) (hx : a.eval x = vR [m, n]) (hy : a.eval y = vR [m', n']) (b b' : Bool) (hb : ∀ w, (Op.equalIn 10000 35 (vR [m, n]) (vR [m', n'])).run Try.prog w = .ok b w) (hb' : (!b) = b') (h : WQ Try.prog ops (CB w0) Q rest (a.put o.dst (.bool b'))) : WQ Try.prog ops (CB w0) Q (o :: rest) a :=
  ⟨qb_val hw _ (fun w _ => by rw [← hb']; exact exec_neqP x y ho hx hy (hb w)) h.out⟩
end
theorem run_eq36 (m n : Int) (b : Bool) (hb : (m == n) = b) (w : World) : (binOp .eql 36 (.int .i64 m) (.int .i64 n)).run Try.prog w = .ok (.bool b) w := by
  subst hb
  kernel_rfl
theorem eqP_same (m n : Nat) (w : World) : (Op.equalIn 10000 35 (vR [m, n]) (vR [m, n])).run Try.prog w = .ok true w := by
  have hk : Try.prog.keyTypeAt 3 35 = true := by kernel_rfl
  have hf : ∀ m n, (vR [m, n]).formed Try.prog 35 = true := by
    intro m n
    have hc : Try.prog.cellsOf 35 = 64 := by kernel_rfl
    have hl : (bcs (encs [m, n])).length = 64 := by rw [bcs_len, encs_len]; rfl
    simp [Value.formed, vR, hc, hl]
  obtain ⟨r, hr, hiff⟩ := run_equalIn_deep (P := Try.prog) 9997 3 35 hk w 3 3 _ _ _ _ (hf m n) (hf m n) (keyLits35 m n) (keyLits35 m n)
  rw [hr, hiff.2 rfl]

section
variable {H : Type} {enc : TypeId × Value → H} {P : Program} {w : World} {base : Nat} {spare : Nat → Bool} {held : Bool}
theorem open_cells {n e fuel : Nat} {t : TypeId} {cs : List Value} {x : DataW H × List MemPlace} (ht : P.underlying t = some (.array n e)) (he : P.underlying e = some (.int .u8)) (hce : P.cellsOf e = 1) (hct : P.cellsOf t = n)
    (hf : DataW.trod enc P w base spare held fuel t cs = some x) : ∃ l : List UInt8, l.length = n ∧ cs = bcs l := by
  obtain ⟨xs, m, _, _, hl, hxl, hel⟩ := DataW.trod_array ht hf
  have hcs : ∀ i (hi : i < cs.length), ∃ b : UInt8, cs[i] = bc b := by
    intro i hi
    have h1 := hel i (by omega)
    have hd : (cs.drop (i * P.cellsOf e)).take (P.cellsOf e) = [cs[i]] := by
      rw [hce, Nat.mul_one, List.drop_eq_getElem_cons hi]
      simp only [List.take_succ_cons, List.take_zero]
    rw [hd, List.getElem?_eq_getElem (by omega)] at h1
    obtain ⟨z, e0, _, wz⟩ := DataW.trod_int he h1
    simp only [List.cons.injEq, and_true] at e0
    have hb := bounds_u8 wz
    refine ⟨UInt8.ofNat z.toNat, ?_⟩
    rw [e0]
    unfold bc
    rw [UInt8.toNat_ofNat']
    congr 1
    omega
  refine ⟨cs.map (fun v => match v with | .int _ z => UInt8.ofNat z.toNat | _ => 0), by simp; omega, ?_⟩
  apply List.ext_getElem
  · simp [bcs]
  · intro i h1 h2
    obtain ⟨b, hb⟩ := hcs i h1
    simp only [bcs, List.map_map, List.getElem_map, Function.comp_def, hb]
    simp [bc]
end
/-- A point's numbers that came in. -/
theorem open_pt {H : Type} {enc' : TypeId × Value → H} {w : World} {base b0 : Nat} {spare : Nat → Bool} {held : Bool} {r : Reach} {v : Value} {d : DataW H} {p : List MemPlace}
    (hv : Value.okWide Try.prog w r b0 35 v) (h : DataW.Trod enc' Try.prog w base spare held 35 v d p) : ∃ X Y : Nat, X < TT ∧ Y < TT ∧ v = vR [X, Y] := by
  have ho : ∃ cs, v = .agg cs ∧ cs.size = Try.prog.cellsOf 35 := by
    simp only [Value.okWide, Try.underlying35] at hv
    obtain ⟨cs, h1, h2, _⟩ := hv
    exact ⟨cs, h1, h2⟩
  obtain ⟨cs, rfl, hsz⟩ := ho
  obtain ⟨fuel, hf⟩ := h
  obtain ⟨y0, y1, n, _, hl, h0, h1⟩ := Go.ChangeShapes.trod_struct2 Try.underlying35 hf
  obtain ⟨l0, n0, e0⟩ := open_cells under23 Try.underlying5 (by kernel_rfl) (by kernel_rfl) h0
  obtain ⟨l1, n1, e1⟩ := open_cells under23 Try.underlying5 (by kernel_rfl) (by kernel_rfl) h1
  have h23 : Try.prog.cellsOf 23 = 32 := by kernel_rfl
  have h35 : Try.prog.cellsOf 35 = 64 := by kernel_rfl
  refine ⟨nv l0, nv l1, nv_lt l0, nv_lt l1, ?_⟩
  unfold vR
  rw [encs, encs_one, enc_nv l0 n0, enc_nv l1 n1, bcs_append, ← e0, ← e1]
  congr 1
  apply Array.toList_inj.1
  show cs.toList = (cs.toList.drop 0).take (Try.prog.cellsOf 23) ++ (cs.toList.drop 32).take (Try.prog.cellsOf 23)
  rw [h23, List.drop_zero]
  have hlen : cs.toList.length = 64 := by rw [Array.length_toList, hsz, h35]
  rw [List.take_of_length_le (l := cs.toList.drop 32) (by rw [List.length_drop]; omega), List.take_append_drop]
end Go.Proofs.Ytgdimnbdnepbgaa
