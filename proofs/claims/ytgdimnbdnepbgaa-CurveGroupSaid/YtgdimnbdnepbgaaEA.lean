/- Rows of several numbers: points, and points in extended coordinates. No statement is proved here. -/
import Derived.Test.YtgdimnbdnepbgaaGE
namespace Go.Proofs.Ytgdimnbdnepbgaa
open Go.RowKit
set_option linter.unusedVariables false
set_option maxRecDepth 40000
set_option linter.unusedSimpArgs false

def encs : List Nat → List UInt8
  | [] => []
  | n :: l => enc n ++ encs l
theorem encs_len : ∀ l, (encs l).length = 32 * l.length
  | [] => rfl
  | n :: l => by rw [encs, List.length_append, enc_len, encs_len l, List.length_cons]; omega
theorem encs_one (n : Nat) : encs [n] = enc n := List.append_nil _
/-- Several numbers as one value. -/
def vR (l : List Nat) : Value := .agg (bcs (encs l)).toArray
theorem vR_one (n : Nat) : vR [n] = vN n := by unfold vR vN; rw [encs_one]
theorem encs_get : ∀ (l : List Nat) (i n j : Nat), l[i]? = some n → j < 32 → (encs l)[32 * i + j]? = (enc n)[j]?
  | [], i, n, j, h, _ => by simp at h
  | m :: l, 0, n, j, h, hj => by
    rw [List.getElem?_cons_zero] at h
    injection h with h
    subst h
    rw [encs, List.getElem?_append_left (by rw [enc_len]; omega), show 32 * 0 + j = j from by omega]
  | m :: l, i + 1, n, j, h, hj => by
    rw [List.getElem?_cons_succ] at h
    rw [encs, List.getElem?_append_right (by rw [enc_len]; omega), enc_len, show 32 * (i + 1) + j - 32 = 32 * i + j from by omega]
    exact encs_get l i n j h hj
theorem encs_set : ∀ (l : List Nat) (i n : Nat), i < l.length → (encs l).take (32 * i) ++ enc n ++ (encs l).drop (32 * i + 32) = encs (l.set i n)
  | [], i, n, h => absurd h (by simp)
  | m :: l, 0, n, h => by
    rw [List.set_cons_zero, encs, encs, Nat.mul_zero, List.take_zero, List.nil_append, Nat.zero_add, List.drop_append_of_le_length (by rw [enc_len]; omega), List.drop_of_length_le (by rw [enc_len]; omega), List.nil_append]
  | m :: l, i + 1, n, h => by
    have ih := encs_set l i n (by simpa using h)
    rw [List.set_cons_succ, encs, encs, ← ih, show 32 * (i + 1) = 32 + 32 * i from by omega, List.take_append, enc_len, List.take_of_length_le (by rw [enc_len]; omega), show 32 + 32 * i - 32 = 32 * i from by omega, List.drop_append, List.drop_of_length_le (by rw [enc_len]; omega), enc_len, show 32 + 32 * i + 32 - 32 = 32 * i + 32 from by omega]
    simp [List.append_assoc]
/-- Numbers lie in row g. -/
def RAt (w : World) (g : Nat) (l : List Nat) : Prop := ∃ t, w.heap[g]? = some (.cells (bcs (encs l)).toArray t (0, 0))
theorem RAt.lt {w : World} {g : Nat} {l : List Nat} (h : RAt w g l) : g < w.heap.size := by
  obtain ⟨t, ht⟩ := h
  exact (Array.getElem?_eq_some_iff.1 ht).1
theorem RAt.below {w w' : World} {g B : Nat} {l : List Nat} (h : RAt w g l) (hb : Below B w w') (hg : g < B) : RAt w' g l := by
  obtain ⟨t, ht⟩ := h
  exact ⟨t, (hb.block g hg).trans ht⟩
theorem RAt.keep {w w' : World} {g : Nat} {l : List Nat} (h : RAt w g l) (hb : Below w.heap.size w w') : RAt w' g l := h.below hb h.lt
theorem RAt.grown {w w' : World} {g : Nat} {l : List Nat} {row : Option Nat} (h : RAt w g l) (hb : w.grownBy w' row) (hg : some g ≠ row) : RAt w' g l := by
  have := h.lt
  obtain ⟨t, ht⟩ := h
  exact ⟨t, (hb.block g this hg).trans ht⟩
theorem RAt.keeps {G : Nat → Prop} {w w' : World} {g : Nat} {l : List Nat} (h : RAt w g l) (hk : Keeps G w w') (hg : ¬ G g) : RAt w' g l := by
  have := h.lt
  obtain ⟨t, ht⟩ := h
  exact ⟨t, (hk.block g this hg).trans ht⟩
theorem RAt.num {w : World} {g n : Nat} (h : RAt w g [n]) : NAt w g n := by
  obtain ⟨t, ht⟩ := h
  rw [encs_one] at ht
  exact ⟨t, ht⟩
theorem NAt.row {w : World} {g n : Nat} (h : NAt w g n) : RAt w g [n] := by
  obtain ⟨t, ht⟩ := h
  refine ⟨t, ?_⟩
  rw [encs_one]
  exact ht
theorem zrow {w : World} {g k : Nat} {t : TypeId} (h : w.heap[g]? = some (.cells (bcs (List.replicate (32 * k) 0)).toArray t (0, 0))) : RAt w g (List.replicate k 0) := by
  have e : ∀ k, encs (List.replicate k 0) = List.replicate (32 * k) 0 := by
    intro k
    induction k with
    | zero => rfl
    | succ k ih => rw [List.replicate_succ, encs, ih, show 32 * (k + 1) = 32 + 32 * k from by omega, ← List.replicate_append_replicate]; rfl
  rw [← e] at h
  exact ⟨t, h⟩
theorem RAt.cells {w : World} {g : Nat} {l : List Nat} (h : RAt w g l) (i n : Nat) (hn : l[i]? = some n) : ∀ j u, (bcs (enc n))[j]? = some u → w.cell? ⟨g, 32 * i + j, none⟩ = some u := by
  obtain ⟨t, ht⟩ := h
  intro j u hu
  have hj : j < 32 := by
    have := (List.getElem?_eq_some_iff.1 hu).1
    rw [bcs_enc_len] at this
    exact this
  refine row_cells ht (32 * i + j) u ?_
  rw [List.toList_toArray, bcs_get, encs_get l i n j hn hj, ← bcs_get]
  exact hu

theorem exec_loadF {o : Oper} {a : Act} {w : World} (x : Operand) (ho : o.op = .load 23 x) (g i off : Nat) (he : off = 32 * i) (l : List Nat) (n : Nat) (hx : a.eval x = .pointer (some ⟨g, off, none⟩)) (hr : RAt w g l) (hn : l[i]? = some n) : (execOp a.eval o).run Try.prog w = .ok (.value (vN n)) w := by
  subst he
  have hl : (loadCells ⟨g, 32 * i, none⟩ (bcs (enc n)).length).run Try.prog w = .ok (bcs (enc n)).toArray w :=
    run_loadCells_list (P := Try.prog) w ⟨g, 32 * i, none⟩ (bcs (enc n)) (fun j v hv => by
      have hadd : (⟨g, 32 * i, none⟩ : Addr).add j = ⟨g, 32 * i + j, none⟩ := by unfold Addr.add; split <;> simp_all
      rw [hadd]
      exact hr.cells i n hn j v hv)
  have hagg : (isAgg 23).run Try.prog w = .ok true w := by
    unfold isAgg
    rw [Sem.run_bind, run_underlying under23 w]
    rfl
  have hq : ∃ i, Try.prog.info? 23 = some i ∧ i.size = 32 := by
    have := size23
    cases h : Try.prog.info? 23 with
    | none => rw [h] at this; simp at this
    | some i => exact ⟨i, rfl, by rw [h] at this; simpa using this⟩
  obtain ⟨k, hi, hs⟩ := hq
  have hrun : (Instr.loadAt 23 (.pointer (some ⟨g, 32 * i, none⟩))).run Try.prog w = .ok (vN n) w := by
    rw [bcs_enc_len] at hl
    simp [Instr.loadAt, Instr.sureAddr, loadVar, Sem.run_bind, hagg, sizeOf, typeInfo, hi, hs, hl]
    rfl
  unfold execOp
  simp only [ho, hx, Sem.run_bind, Sem.run_pure, Result.andThen_ok, hrun]
theorem size35 : (Try.prog.info? 35).map (·.size) = some 64 := by kernel_rfl
theorem size76 : (Try.prog.info? 76).map (·.size) = some 128 := by kernel_rfl
theorem zero35 (w : World) : (zeroValue 35).run Try.prog w = .ok (.agg (zbs 64)) w := by kernel_rfl
theorem zero76 (w : World) : (zeroValue 76).run Try.prog w = .ok (.agg (zbs 128)) w := by kernel_rfl
theorem exec_loadP {o : Oper} {a : Act} {w : World} (x : Operand) (ho : o.op = .load 35 x) (g m n : Nat) (hx : a.eval x = .pointer (some ⟨g, 0, none⟩)) (hr : RAt w g [m, n]) : (execOp a.eval o).run Try.prog w = .ok (.value (vR [m, n])) w := by
  obtain ⟨t, ht⟩ := hr
  have hlen : (bcs (encs [m, n])).length = 64 := by rw [bcs_len, encs_len]; rfl
  have hl : (loadCells ⟨g, 0, none⟩ (bcs (encs [m, n])).length).run Try.prog w = .ok (bcs (encs [m, n])).toArray w :=
    run_loadCells_list (P := Try.prog) w ⟨g, 0, none⟩ (bcs (encs [m, n])) (fun j v hv => by
      have hadd : (⟨g, 0, none⟩ : Addr).add j = ⟨g, j, none⟩ := by unfold Addr.add; split <;> simp_all
      rw [hadd]
      exact row_cells ht j v (by simpa using hv))
  have hagg : (isAgg 35).run Try.prog w = .ok true w := by
    unfold isAgg
    rw [Sem.run_bind, run_underlying Try.underlying35 w]
    rfl
  have hq : ∃ i, Try.prog.info? 35 = some i ∧ i.size = 64 := by
    have := size35
    cases h : Try.prog.info? 35 with
    | none => rw [h] at this; simp at this
    | some i => exact ⟨i, rfl, by rw [h] at this; simpa using this⟩
  obtain ⟨k, hi, hs⟩ := hq
  have hrun : (Instr.loadAt 35 (.pointer (some ⟨g, 0, none⟩))).run Try.prog w = .ok (vR [m, n]) w := by
    rw [hlen] at hl
    simp [Instr.loadAt, Instr.sureAddr, loadVar, Sem.run_bind, hagg, sizeOf, typeInfo, hi, hs, hl]
    rfl
  unfold execOp
  simp only [ho, hx, Sem.run_bind, Sem.run_pure, Result.andThen_ok, hrun]
theorem exec_nil {P : Program} {o : Oper} {a : Act} {w : World} (x : Operand) (ho : o.op = .nilCheck x) (A : Addr) (hx : a.eval x = .pointer (some A)) : (execOp a.eval o).run P w = .ok (.value (.pointer (some A))) w := by
  unfold execOp
  simp only [ho, hx, Sem.run_pure]
theorem exec_field {o : Oper} {a : Act} {w : World} (t : TypeId) (x : Operand) (i : Nat) (ho : o.op = .fieldAddr t x i) (g off : Nat) (hx : a.eval x = .pointer (some ⟨g, 0, none⟩)) (hr : ∀ w, (Instr.fieldAt t (.pointer (some ⟨g, 0, none⟩)) i).run Try.prog w = .ok (.pointer (some ⟨g, off, none⟩)) w) : (execOp a.eval o).run Try.prog w = .ok (.value (.pointer (some ⟨g, off, none⟩))) w := by
  unfold execOp
  simp only [ho, hx, Sem.run_bind, Sem.run_pure, Result.andThen_ok, hr w]
theorem fld35_0 (g : Nat) (w : World) : (Instr.fieldAt 35 (.pointer (some ⟨g, 0, none⟩)) 0).run Try.prog w = .ok (.pointer (some ⟨g, 0, none⟩)) w := by kernel_rfl
theorem fld35_1 (g : Nat) (w : World) : (Instr.fieldAt 35 (.pointer (some ⟨g, 0, none⟩)) 1).run Try.prog w = .ok (.pointer (some ⟨g, 32, none⟩)) w := by kernel_rfl
theorem fld76_0 (g : Nat) (w : World) : (Instr.fieldAt 76 (.pointer (some ⟨g, 0, none⟩)) 0).run Try.prog w = .ok (.pointer (some ⟨g, 0, none⟩)) w := by kernel_rfl
theorem fld76_1 (g : Nat) (w : World) : (Instr.fieldAt 76 (.pointer (some ⟨g, 0, none⟩)) 1).run Try.prog w = .ok (.pointer (some ⟨g, 32, none⟩)) w := by kernel_rfl
theorem fld76_2 (g : Nat) (w : World) : (Instr.fieldAt 76 (.pointer (some ⟨g, 0, none⟩)) 2).run Try.prog w = .ok (.pointer (some ⟨g, 64, none⟩)) w := by kernel_rfl
theorem fld76_3 (g : Nat) (w : World) : (Instr.fieldAt 76 (.pointer (some ⟨g, 0, none⟩)) 3).run Try.prog w = .ok (.pointer (some ⟨g, 96, none⟩)) w := by kernel_rfl
theorem run_build35 (m n : Nat) (w : World) : (Instr.build 35 #[(0, vN m), (1, vN n)]).run Try.prog w = .ok (vR [m, n]) w := by kernel_rfl
theorem exec_build35 {o : Oper} {a : Act} {w : World} (x y : Operand) (m n : Nat) (ho : o.op = .build 35 #[(0, x), (1, y)]) (hx : a.eval x = vN m) (hy : a.eval y = vN n) : (execOp a.eval o).run Try.prog w = .ok (.value (vR [m, n])) w := by
  unfold execOp
  simp only [ho, List.map_toArray, List.map_cons, List.map_nil, Sem.run_bind, Sem.run_pure, hx, hy]
  rw [run_build35 m n w]
  rfl
/-- A number is stored into a row of numbers. -/
theorem exec_storeF {o : Oper} {a : Act} {w : World} (p x : Operand) (ho : o.op = .store 23 p x) (g i off : Nat) (he : off = 32 * i) (l : List Nat) (n : Nat) (hp : a.eval p = .pointer (some ⟨g, off, none⟩)) (hx : a.eval x = vN n) (hr : RAt w g l) (hi : i < l.length) :
    ∃ w', (execOp a.eval o).run Try.prog w = .ok .skip w' ∧ RAt w' g (l.set i n) ∧ w.grownBy w' (some g) ∧ w'.heap.size = w.heap.size := by
  subst he
  obtain ⟨t, ht⟩ := hr
  have hq : ∃ i, Try.prog.info? 23 = some i ∧ i.size = 32 := by
    have := size23
    cases h : Try.prog.info? 23 with
    | none => rw [h] at this; simp at this
    | some i => exact ⟨i, rfl, by rw [h] at this; simpa using this⟩
  obtain ⟨k, hk, hs⟩ := hq
  have hst := run_storeCells_at Try.prog g (32 * i) t (bcs (enc n)) 0 (bcs (encs l)).toArray w ht (by rw [List.size_toArray, bcs_len, bcs_len, encs_len, enc_len]; omega) (bcs_one _)
  simp only [Nat.add_zero] at hst
  have e : (((bcs (encs l)).toArray.toList.take (32 * i) ++ bcs (enc n) ++ (bcs (encs l)).toArray.toList.drop (32 * i + (bcs (enc n)).length)).toArray) = (bcs (encs (l.set i n))).toArray := by
    rw [bcs_enc_len, ← encs_set l i n hi, bcs_append, bcs_append]
    simp [bcs]
  rw [e] at hst
  have hrun : (Instr.storeAt 23 (.pointer (some ⟨g, 32 * i, none⟩)) (vN n)).run Try.prog w = .ok () (w.setRow g (bcs (encs (l.set i n))).toArray) := by
    have hc : (vN n).cells.size = 32 := by show (bcs (enc n)).toArray.size = 32; rw [List.size_toArray, bcs_enc_len]
    have hc2 : (vN n).cells.toList = bcs (enc n) := rfl
    simp [Instr.storeAt, Instr.sureAddr, storeVar, sizeOf, typeInfo, hk, hs, hc, hc2, hst]
  refine ⟨_, ?_, ⟨t, setRow_heap w g _ _ t _ ht⟩, setRow_grown w g _, by simp⟩
  unfold execOp
  simp only [ho, hp, hx, Sem.run_bind, Sem.run_pure, Result.andThen_ok, hrun]
theorem exec_storeP {o : Oper} {a : Act} {w : World} (p x : Operand) (ho : o.op = .store 35 p x) (g : Nat) (l : List Nat) (m n : Nat) (hp : a.eval p = .pointer (some ⟨g, 0, none⟩)) (hx : a.eval x = vR [m, n]) (hr : RAt w g l) (hl : l.length = 2) :
    ∃ w', (execOp a.eval o).run Try.prog w = .ok .skip w' ∧ RAt w' g [m, n] ∧ w.grownBy w' (some g) ∧ w'.heap.size = w.heap.size := by
  obtain ⟨t, ht⟩ := hr
  have hq : ∃ i, Try.prog.info? 35 = some i ∧ i.size = 64 := by
    have := size35
    cases h : Try.prog.info? 35 with
    | none => rw [h] at this; simp at this
    | some i => exact ⟨i, rfl, by rw [h] at this; simpa using this⟩
  obtain ⟨k, hk, hs⟩ := hq
  have hlen : (bcs (encs [m, n])).length = 64 := by rw [bcs_len, encs_len]; rfl
  have hlen2 : (bcs (encs l)).length = 64 := by rw [bcs_len, encs_len, hl]
  have hst := run_storeCells_at Try.prog g 0 t (bcs (encs [m, n])) 0 (bcs (encs l)).toArray w ht (by rw [List.size_toArray, hlen, hlen2]; omega) (bcs_one _)
  simp only [Nat.add_zero] at hst
  have e : (((bcs (encs l)).toArray.toList.take 0 ++ bcs (encs [m, n]) ++ (bcs (encs l)).toArray.toList.drop (0 + (bcs (encs [m, n])).length)).toArray) = (bcs (encs [m, n])).toArray := by
    rw [hlen, List.drop_of_length_le (by simp [hlen2])]
    simp
  rw [e] at hst
  have hrun : (Instr.storeAt 35 (.pointer (some ⟨g, 0, none⟩)) (vR [m, n])).run Try.prog w = .ok () (w.setRow g (bcs (encs [m, n])).toArray) := by
    have hc : (vR [m, n]).cells.size = 64 := by show (bcs (encs [m, n])).toArray.size = 64; rw [List.size_toArray, hlen]
    have hc2 : (vR [m, n]).cells.toList = bcs (encs [m, n]) := rfl
    simp [Instr.storeAt, Instr.sureAddr, storeVar, sizeOf, typeInfo, hk, hs, hc, hc2, hst]
  refine ⟨_, ?_, ⟨t, setRow_heap w g _ _ t _ ht⟩, setRow_grown w g _, by simp⟩
  unfold execOp
  simp only [ho, hp, hx, Sem.run_bind, Sem.run_pure, Result.andThen_ok, hrun]

theorem wpList_storeF {ops : Array Oper} {rest : List Oper} {o : Oper} {a : Act} {w : World} {Q : Exit → Act → World → Prop} (hgd : Region.wanted o (yielded ops a.tmps) = true) (p x : Operand) (ho : o.op = .store 23 p x) (g i off : Nat) (he : off = 32 * i) (l : List Nat) (n : Nat) (hp : a.eval p = .pointer (some ⟨g, off, none⟩)) (hx : a.eval x = vN n) (hr : RAt w g l) (hi : i < l.length)
    (h : ∀ w', RAt w' g (l.set i n) → w.grownBy w' (some g) → w'.heap.size = w.heap.size → wpList Try.prog ops Q rest (a.put o.dst undef) w') : wpList Try.prog ops Q (o :: rest) a w := by
  refine wpList_want hgd fun K hK => ?_
  obtain ⟨w', h1, h2, h3, h4⟩ := exec_storeF (a := a) p x ho g i off he l n hp hx hr hi
  unfold Oper.wp
  rw [h1]
  exact hK _ _ (h w' h2 h3 h4)
theorem wpList_storeP {ops : Array Oper} {rest : List Oper} {o : Oper} {a : Act} {w : World} {Q : Exit → Act → World → Prop} (hgd : Region.wanted o (yielded ops a.tmps) = true) (p x : Operand) (ho : o.op = .store 35 p x) (g : Nat) (l : List Nat) (m n : Nat) (hp : a.eval p = .pointer (some ⟨g, 0, none⟩)) (hx : a.eval x = vR [m, n]) (hr : RAt w g l) (hl : l.length = 2)
    (h : ∀ w', RAt w' g [m, n] → w.grownBy w' (some g) → w'.heap.size = w.heap.size → wpList Try.prog ops Q rest (a.put o.dst undef) w') : wpList Try.prog ops Q (o :: rest) a w := by
  refine wpList_want hgd fun K hK => ?_
  obtain ⟨w', h1, h2, h3, h4⟩ := exec_storeP (a := a) p x ho g l m n hp hx hr hl
  unfold Oper.wp
  rw [h1]
  exact hK _ _ (h w' h2 h3 h4)
section
variable {md : Region.Mode} {ops : Array Oper} {Q : Exit → Act → World → Prop} {W : Nat → Bool} {lo fuel : Nat} {listed : Array Bool} {a : Act} {w : World}
theorem storeW_F {i : Nat} {oi : Oper} (hi : ops[i]? = some oi) (hr : Region.ready md ops listed = [i]) (hw : Region.wanted oi (yielded ops a.tmps) = true)
    (p x : Operand) (ho : oi.op = .store 23 p x) (g k off : Nat) (he : off = 32 * k) (l : List Nat) (n : Nat) (hp : a.eval p = .pointer (some ⟨g, off, none⟩)) (hx : a.eval x = vN n) (hrow : RAt w g l) (hk : k < l.length) (hW : W i = true)
    (h : ∀ w', RAt w' g (l.set k n) → w.grownBy w' (some g) → w'.heap.size = w.heap.size → wpAnyW Try.prog md ops Q W lo fuel (listed.setIfInBounds i true) (a.put oi.dst undef) w') : wpAnyW Try.prog md ops Q W lo (fuel + 1) listed a w := by
  obtain ⟨w', h2, h3, h4, h5⟩ := exec_storeF (a := a) (w := w) (o := oi) p x ho g k off he l n hp hx hrow hk
  exact storeW w' hi hr hw h2 (fun h => by rw [hW] at h; cases h) (h w' h3 h4 h5)
theorem storeW_P {i : Nat} {oi : Oper} (hi : ops[i]? = some oi) (hr : Region.ready md ops listed = [i]) (hw : Region.wanted oi (yielded ops a.tmps) = true)
    (p x : Operand) (ho : oi.op = .store 35 p x) (g : Nat) (l : List Nat) (m n : Nat) (hp : a.eval p = .pointer (some ⟨g, 0, none⟩)) (hx : a.eval x = vR [m, n]) (hrow : RAt w g l) (hl : l.length = 2) (hW : W i = true)
    (h : ∀ w', RAt w' g [m, n] → w.grownBy w' (some g) → w'.heap.size = w.heap.size → wpAnyW Try.prog md ops Q W lo fuel (listed.setIfInBounds i true) (a.put oi.dst undef) w') : wpAnyW Try.prog md ops Q W lo (fuel + 1) listed a w := by
  obtain ⟨w', h2, h3, h4, h5⟩ := exec_storeP (a := a) (w := w) (o := oi) p x ho g l m n hp hx hrow hl
  exact storeW w' hi hr hw h2 (fun h => by rw [hW] at h; cases h) (h w' h3 h4 h5)
end
theorem Keeps.newrow {G : Nat → Prop} {w x y : World} {r : Nat} (h : Keeps G w x) (hg : x.grownBy y (some r)) (hr : w.heap.size ≤ r) : Keeps G w y :=
  ⟨hg.os.trans h.os, hg.tape.trans h.tape, hg.output.trans h.output, Nat.le_trans h.size hg.size, fun k hk hn => (hg.block k (Nat.lt_of_lt_of_le hk h.size) (by simp; omega)).trans (h.block k hk hn)⟩
theorem Keeps.ownrow {w x y : World} {g : Nat} (h : Keeps (· = g) w x) (hg : x.grownBy y (some g)) : Keeps (· = g) w y :=
  h.trans (Keeps.of_grown hg (fun r hr => by injection hr with hr; exact hr.symm))
theorem Keeps.call {G : Nat → Prop} {w x y : World} (h : Keeps G w x) (hb : Below x.heap.size x y) : Keeps G w y := h.trans (Keeps.of_below hb)
theorem Keeps.alloc {G : Nat → Prop} {w x y : World} (h : Keeps G w x) (hg : x.grownBy y none) : Keeps G w y := h.trans (Keeps.of_grown hg (fun r hr => by cases hr))
theorem drew_rel {w x : World} {G : Nat → Prop} (h : Keeps G w x) : Keeps G w x.drew := h.trans (Keeps.drew _ _)
/-- What a method leaves that changes the numbers at g. -/
def SetsR (g : Nat) (l : List Nat) (w : World) (e : Ending) (w' : World) : Prop := e = .returned (.tuple #[]) ∧ RAt w' g l ∧ Keeps (· = g) w w'
end Go.Proofs.Ytgdimnbdnepbgaa
