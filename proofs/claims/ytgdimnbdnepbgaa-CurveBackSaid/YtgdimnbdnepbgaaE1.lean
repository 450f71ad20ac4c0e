/- Several texts in one. No statement is proved here. -/
import Derived.Test.YtgdimnbdnepbgaaK3
/- Rows of several numbers: points, and points in extended coordinates. No statement is proved here. -/
namespace Go.Proofs.Ytgdimnbdnepbgaa
open Go.RowKit
set_option linter.unusedVariables false
set_option maxRecDepth 40000
set_option linter.unusedSimpArgs false

def encs : List Nat → List UInt8
  | [] => []
  | n :: l => enc n ++ encs l
theorem encs_len : ∀ l, (encs l).length = 32 * l.length
  | [] => rfl
  | n :: l => by rw [encs, List.length_append, enc_len, encs_len l, List.length_cons]; omega
theorem encs_one (n : Nat) : encs [n] = enc n := List.append_nil _
/-- Several numbers as one value. -/
def vR (l : List Nat) : Value := .agg (bcs (encs l)).toArray
theorem vR_one (n : Nat) : vR [n] = vN n := by unfold vR vN; rw [encs_one]
theorem encs_get : ∀ (l : List Nat) (i n j : Nat), l[i]? = some n → j < 32 → (encs l)[32 * i + j]? = (enc n)[j]?
  | [], i, n, j, h, _ => by simp at h
  | m :: l, 0, n, j, h, hj => by
    rw [List.getElem?_cons_zero] at h
    injection h with h
    subst h
    rw [encs, List.getElem?_append_left (by rw [enc_len]; omega), show 32 * 0 + j = j from by omega]
  | m :: l, i + 1, n, j, h, hj => by
    rw [List.getElem?_cons_succ] at h
    rw [encs, List.getElem?_append_right (by rw [enc_len]; omega), enc_len, show 32 * (i + 1) + j - 32 = 32 * i + j from by omega]
    exact encs_get l i n j h hj
theorem encs_set : ∀ (l : List Nat) (i n : Nat), i < l.length → (encs l).take (32 * i) ++ enc n ++ (encs l).drop (32 * i + 32) = encs (l.set i n)
  | [], i, n, h => absurd h (by simp)
  | m :: l, 0, n, h => by
    rw [List.set_cons_zero, encs, encs, Nat.mul_zero, List.take_zero, List.nil_append, Nat.zero_add, List.drop_append_of_le_length (by rw [enc_len]; omega), List.drop_of_length_le (by rw [enc_len]; omega), List.nil_append]
  | m :: l, i + 1, n, h => by
    have ih := encs_set l i n (by simpa using h)
    rw [List.set_cons_succ, encs, encs, ← ih, show 32 * (i + 1) = 32 + 32 * i from by omega, List.take_append, enc_len, List.take_of_length_le (by rw [enc_len]; omega), show 32 + 32 * i - 32 = 32 * i from by omega, List.drop_append, List.drop_of_length_le (by rw [enc_len]; omega), enc_len, show 32 + 32 * i + 32 - 32 = 32 * i + 32 from by omega]
    simp [List.append_assoc]
/-- Numbers lie in row g. -/
def RAt (w : World) (g : Nat) (l : List Nat) : Prop := ∃ t, w.heap[g]? = some (.cells (bcs (encs l)).toArray t (0, 0))
theorem RAt.lt {w : World} {g : Nat} {l : List Nat} (h : RAt w g l) : g < w.heap.size := by
  obtain ⟨t, ht⟩ := h
  exact (Array.getElem?_eq_some_iff.1 ht).1
theorem RAt.below {w w' : World} {g B : Nat} {l : List Nat} (h : RAt w g l) (hb : Below B w w') (hg : g < B) : RAt w' g l := by
  obtain ⟨t, ht⟩ := h
  exact ⟨t, (hb.block g hg).trans ht⟩
theorem RAt.keep {w w' : World} {g : Nat} {l : List Nat} (h : RAt w g l) (hb : Below w.heap.size w w') : RAt w' g l := h.below hb h.lt
theorem RAt.grown {w w' : World} {g : Nat} {l : List Nat} {row : Option Nat} (h : RAt w g l) (hb : w.grownBy w' row) (hg : some g ≠ row) : RAt w' g l := by
  have := h.lt
  obtain ⟨t, ht⟩ := h
  exact ⟨t, (hb.block g this hg).trans ht⟩
theorem RAt.keeps {G : Nat → Prop} {w w' : World} {g : Nat} {l : List Nat} (h : RAt w g l) (hk : Keeps G w w') (hg : ¬ G g) : RAt w' g l := by
  have := h.lt
  obtain ⟨t, ht⟩ := h
  exact ⟨t, (hk.block g this hg).trans ht⟩
theorem RAt.num {w : World} {g n : Nat} (h : RAt w g [n]) : NAt w g n := by
  obtain ⟨t, ht⟩ := h
  rw [encs_one] at ht
  exact ⟨t, ht⟩
theorem NAt.row {w : World} {g n : Nat} (h : NAt w g n) : RAt w g [n] := by
  obtain ⟨t, ht⟩ := h
  refine ⟨t, ?_⟩
  rw [encs_one]
  exact ht
theorem zrow {w : World} {g k : Nat} {t : TypeId} (h : w.heap[g]? = some (.cells (bcs (List.replicate (32 * k) 0)).toArray t (0, 0))) : RAt w g (List.replicate k 0) := by
  have e : ∀ k, encs (List.replicate k 0) = List.replicate (32 * k) 0 := by
    intro k
    induction k with
    | zero => rfl
    | succ k ih => rw [List.replicate_succ, encs, ih, show 32 * (k + 1) = 32 + 32 * k from by omega, ← List.replicate_append_replicate]; rfl
  rw [← e] at h
  exact ⟨t, h⟩
theorem RAt.cells {w : World} {g : Nat} {l : List Nat} (h : RAt w g l) (i n : Nat) (hn : l[i]? = some n) : ∀ j u, (bcs (enc n))[j]? = some u → w.cell? ⟨g, 32 * i + j, none⟩ = some u := by
  obtain ⟨t, ht⟩ := h
  intro j u hu
  have hj : j < 32 := by
    have := (List.getElem?_eq_some_iff.1 hu).1
    rw [bcs_enc_len] at this
    exact this
  refine row_cells ht (32 * i + j) u ?_
  rw [List.toList_toArray, bcs_get, encs_get l i n j hn hj, ← bcs_get]
  exact hu

theorem exec_loadF {o : Oper} {a : Act} {w : World} (x : Operand) (ho : o.op = .load 23 x) (g i off : Nat) (he : off = 32 * i) (l : List Nat) (n : Nat) (hx : a.eval x = .pointer (some ⟨g, off, none⟩)) (hr : RAt w g l) (hn : l[i]? = some n) : (execOp a.eval o).run Try.prog w = .ok (.value (vN n)) w := by
  subst he
  have hl : (loadCells ⟨g, 32 * i, none⟩ (bcs (enc n)).length).run Try.prog w = .ok (bcs (enc n)).toArray w :=
    run_loadCells_list (P := Try.prog) w ⟨g, 32 * i, none⟩ (bcs (enc n)) (fun j v hv => by
      have hadd : (⟨g, 32 * i, none⟩ : Addr).add j = ⟨g, 32 * i + j, none⟩ := by unfold Addr.add; split <;> simp_all
      rw [hadd]
      exact hr.cells i n hn j v hv)
  have hagg : (isAgg 23).run Try.prog w = .ok true w := by
    unfold isAgg
    rw [Sem.run_bind, run_underlying under23 w]
    rfl
  have hq : ∃ i, Try.prog.info? 23 = some i ∧ i.size = 32 := by
    have := size23
    cases h : Try.prog.info? 23 with
    | none => rw [h] at this; simp at this
    | some i => exact ⟨i, rfl, by rw [h] at this; simpa using this⟩
  obtain ⟨k, hi, hs⟩ := hq
  have hrun : (Instr.loadAt 23 (.pointer (some ⟨g, 32 * i, none⟩))).run Try.prog w = .ok (vN n) w := by
    rw [bcs_enc_len] at hl
    simp [Instr.loadAt, Instr.sureAddr, loadVar, Sem.run_bind, hagg, sizeOf, typeInfo, hi, hs, hl]
    rfl
  unfold execOp
  simp only [ho, hx, Sem.run_bind, Sem.run_pure, Result.andThen_ok, hrun]
theorem size35 : (Try.prog.info? 35).map (·.size) = some 64 := by kernel_rfl
theorem size76 : (Try.prog.info? 76).map (·.size) = some 128 := by kernel_rfl
theorem zero35 (w : World) : (zeroValue 35).run Try.prog w = .ok (.agg (zbs 64)) w := by kernel_rfl
theorem zero76 (w : World) : (zeroValue 76).run Try.prog w = .ok (.agg (zbs 128)) w := by kernel_rfl
theorem exec_loadP {o : Oper} {a : Act} {w : World} (x : Operand) (ho : o.op = .load 35 x) (g m n : Nat) (hx : a.eval x = .pointer (some ⟨g, 0, none⟩)) (hr : RAt w g [m, n]) : (execOp a.eval o).run Try.prog w = .ok (.value (vR [m, n])) w := by
  obtain ⟨t, ht⟩ := hr
  have hlen : (bcs (encs [m, n])).length = 64 := by rw [bcs_len, encs_len]; rfl
  have hl : (loadCells ⟨g, 0, none⟩ (bcs (encs [m, n])).length).run Try.prog w = .ok (bcs (encs [m, n])).toArray w :=
    run_loadCells_list (P := Try.prog) w ⟨g, 0, none⟩ (bcs (encs [m, n])) (fun j v hv => by
      have hadd : (⟨g, 0, none⟩ : Addr).add j = ⟨g, j, none⟩ := by unfold Addr.add; split <;> simp_all
      rw [hadd]
      exact row_cells ht j v (by simpa using hv))
  have hagg : (isAgg 35).run Try.prog w = .ok true w := by
    unfold isAgg
    rw [Sem.run_bind, run_underlying Try.underlying35 w]
    rfl
  have hq : ∃ i, Try.prog.info? 35 = some i ∧ i.size = 64 := by
    have := size35
    cases h : Try.prog.info? 35 with
    | none => rw [h] at this; simp at this
    | some i => exact ⟨i, rfl, by rw [h] at this; simpa using this⟩
  obtain ⟨k, hi, hs⟩ := hq
  have hrun : (Instr.loadAt 35 (.pointer (some ⟨g, 0, none⟩))).run Try.prog w = .ok (vR [m, n]) w := by
    rw [hlen] at hl
    simp [Instr.loadAt, Instr.sureAddr, loadVar, Sem.run_bind, hagg, sizeOf, typeInfo, hi, hs, hl]
    rfl
  unfold execOp
  simp only [ho, hx, Sem.run_bind, Sem.run_pure, Result.andThen_ok, hrun]
theorem exec_nil {P : Program} {o : Oper} {a : Act} {w : World} (x : Operand) (ho : o.op = .nilCheck x) (A : Addr) (hx : a.eval x = .pointer (some A)) : (execOp a.eval o).run P w = .ok (.value (.pointer (some A))) w := by
  unfold execOp
  simp only [ho, hx, Sem.run_pure]
theorem exec_field {o : Oper} {a : Act} {w : World} (t : TypeId) (x : Operand) (i : Nat) (ho : o.op = .fieldAddr t x i) (g off : Nat) (hx : a.eval x = .pointer (some ⟨g, 0, none⟩)) (hr : ∀ w, (Instr.fieldAt t (.pointer (some ⟨g, 0, none⟩)) i).run Try.prog w = .ok (.pointer (some ⟨g, off, none⟩)) w) : (execOp a.eval o).run Try.prog w = .ok (.value (.pointer (some ⟨g, off, none⟩))) w := by
  unfold execOp
  simp only [ho, hx, Sem.run_bind, Sem.run_pure, Result.andThen_ok, hr w]
theorem fld35_0 (g : Nat) (w : World) : (Instr.fieldAt 35 (.pointer (some ⟨g, 0, none⟩)) 0).run Try.prog w = .ok (.pointer (some ⟨g, 0, none⟩)) w := by kernel_rfl
theorem fld35_1 (g : Nat) (w : World) : (Instr.fieldAt 35 (.pointer (some ⟨g, 0, none⟩)) 1).run Try.prog w = .ok (.pointer (some ⟨g, 32, none⟩)) w := by kernel_rfl
theorem fld76_0 (g : Nat) (w : World) : (Instr.fieldAt 76 (.pointer (some ⟨g, 0, none⟩)) 0).run Try.prog w = .ok (.pointer (some ⟨g, 0, none⟩)) w := by kernel_rfl
theorem fld76_1 (g : Nat) (w : World) : (Instr.fieldAt 76 (.pointer (some ⟨g, 0, none⟩)) 1).run Try.prog w = .ok (.pointer (some ⟨g, 32, none⟩)) w := by kernel_rfl
theorem fld76_2 (g : Nat) (w : World) : (Instr.fieldAt 76 (.pointer (some ⟨g, 0, none⟩)) 2).run Try.prog w = .ok (.pointer (some ⟨g, 64, none⟩)) w := by kernel_rfl
theorem fld76_3 (g : Nat) (w : World) : (Instr.fieldAt 76 (.pointer (some ⟨g, 0, none⟩)) 3).run Try.prog w = .ok (.pointer (some ⟨g, 96, none⟩)) w := by kernel_rfl
theorem run_build35 (m n : Nat) (w : World) : (Instr.build 35 #[(0, vN m), (1, vN n)]).run Try.prog w = .ok (vR [m, n]) w := by kernel_rfl
theorem exec_build35 {o : Oper} {a : Act} {w : World} (x y : Operand) (m n : Nat) (ho : o.op = .build 35 #[(0, x), (1, y)]) (hx : a.eval x = vN m) (hy : a.eval y = vN n) : (execOp a.eval o).run Try.prog w = .ok (.value (vR [m, n])) w := by
  unfold execOp
  simp only [ho, List.map_toArray, List.map_cons, List.map_nil, Sem.run_bind, Sem.run_pure, hx, hy]
  rw [run_build35 m n w]
  rfl
/-- A number is stored into a row of numbers. -/
theorem exec_storeF {o : Oper} {a : Act} {w : World} (p x : Operand) (ho : o.op = .store 23 p x) (g i off : Nat) (he : off = 32 * i) (l : List Nat) (n : Nat) (hp : a.eval p = .pointer (some ⟨g, off, none⟩)) (hx : a.eval x = vN n) (hr : RAt w g l) (hi : i < l.length) :
    ∃ w', (execOp a.eval o).run Try.prog w = .ok .skip w' ∧ RAt w' g (l.set i n) ∧ w.grownBy w' (some g) ∧ w'.heap.size = w.heap.size := by
  subst he
  obtain ⟨t, ht⟩ := hr
  have hq : ∃ i, Try.prog.info? 23 = some i ∧ i.size = 32 := by
    have := size23
    cases h : Try.prog.info? 23 with
    | none => rw [h] at this; simp at this
    | some i => exact ⟨i, rfl, by rw [h] at this; simpa using this⟩
  obtain ⟨k, hk, hs⟩ := hq
  have hst := run_storeCells_at Try.prog g (32 * i) t (bcs (enc n)) 0 (bcs (encs l)).toArray w ht (by rw [List.size_toArray, bcs_len, bcs_len, encs_len, enc_len]; omega) (bcs_one _)
  simp only [Nat.add_zero] at hst
  have e : (((bcs (encs l)).toArray.toList.take (32 * i) ++ bcs (enc n) ++ (bcs (encs l)).toArray.toList.drop (32 * i + (bcs (enc n)).length)).toArray) = (bcs (encs (l.set i n))).toArray := by
    rw [bcs_enc_len, ← encs_set l i n hi, bcs_append, bcs_append]
    simp [bcs]
  rw [e] at hst
  have hrun : (Instr.storeAt 23 (.pointer (some ⟨g, 32 * i, none⟩)) (vN n)).run Try.prog w = .ok () (w.setRow g (bcs (encs (l.set i n))).toArray) := by
    have hc : (vN n).cells.size = 32 := by show (bcs (enc n)).toArray.size = 32; rw [List.size_toArray, bcs_enc_len]
    have hc2 : (vN n).cells.toList = bcs (enc n) := rfl
    simp [Instr.storeAt, Instr.sureAddr, storeVar, sizeOf, typeInfo, hk, hs, hc, hc2, hst]
  refine ⟨_, ?_, ⟨t, setRow_heap w g _ _ t _ ht⟩, setRow_grown w g _, by simp⟩
  unfold execOp
  simp only [ho, hp, hx, Sem.run_bind, Sem.run_pure, Result.andThen_ok, hrun]
theorem exec_storeP {o : Oper} {a : Act} {w : World} (p x : Operand) (ho : o.op = .store 35 p x) (g : Nat) (l : List Nat) (m n : Nat) (hp : a.eval p = .pointer (some ⟨g, 0, none⟩)) (hx : a.eval x = vR [m, n]) (hr : RAt w g l) (hl : l.length = 2) :
    ∃ w', (execOp a.eval o).run Try.prog w = .ok .skip w' ∧ RAt w' g [m, n] ∧ w.grownBy w' (some g) ∧ w'.heap.size = w.heap.size := by
  obtain ⟨t, ht⟩ := hr
  have hq : ∃ i, Try.prog.info? 35 = some i ∧ i.size = 64 := by
    have := size35
    cases h : Try.prog.info? 35 with
    | none => rw [h] at this; simp at this
    | some i => exact ⟨i, rfl, by rw [h] at this; simpa using this⟩
  obtain ⟨k, hk, hs⟩ := hq
  have hlen : (bcs (encs [m, n])).length = 64 := by rw [bcs_len, encs_len]; rfl
  have hlen2 : (bcs (encs l)).length = 64 := by rw [bcs_len, encs_len, hl]
  have hst := run_storeCells_at Try.prog g 0 t (bcs (encs [m, n])) 0 (bcs (encs l)).toArray w ht (by rw [List.size_toArray, hlen, hlen2]; omega) (bcs_one _)
  simp only [Nat.add_zero] at hst
  have e : (((bcs (encs l)).toArray.toList.take 0 ++ bcs (encs [m, n]) ++ (bcs (encs l)).toArray.toList.drop (0 + (bcs (encs [m, n])).length)).toArray) = (bcs (encs [m, n])).toArray := by
    rw [hlen, List.drop_of_length_le (by simp [hlen2])]
    simp
  rw [e] at hst
  have hrun : (Instr.storeAt 35 (.pointer (some ⟨g, 0, none⟩)) (vR [m, n])).run Try.prog w = .ok () (w.setRow g (bcs (encs [m, n])).toArray) := by
    have hc : (vR [m, n]).cells.size = 64 := by show (bcs (encs [m, n])).toArray.size = 64; rw [List.size_toArray, hlen]
    have hc2 : (vR [m, n]).cells.toList = bcs (encs [m, n]) := rfl
    simp [Instr.storeAt, Instr.sureAddr, storeVar, sizeOf, typeInfo, hk, hs, hc, hc2, hst]
  refine ⟨_, ?_, ⟨t, setRow_heap w g _ _ t _ ht⟩, setRow_grown w g _, by simp⟩
  unfold execOp
  simp only [ho, hp, hx, Sem.run_bind, Sem.run_pure, Result.andThen_ok, hrun]

theorem wpList_storeF {ops : Array Oper} {rest : List Oper} {o : Oper} {a : Act} {w : World} {Q : Exit → Act → World → Prop} (hgd : Region.wanted o (yielded ops a.tmps) = true) (p x : Operand) (ho : o.op = .store 23 p x) (g i off : Nat) (he : off = 32 * i) (l : List Nat) (n : Nat) (hp : a.eval p = .pointer (some ⟨g, off, none⟩)) (hx : a.eval x = vN n) (hr : RAt w g l) (hi : i < l.length)
    (h : ∀ w', RAt w' g (l.set i n) → w.grownBy w' (some g) → w'.heap.size = w.heap.size → wpList Try.prog ops Q rest (a.put o.dst undef) w') : wpList Try.prog ops Q (o :: rest) a w := by
  refine wpList_want hgd fun K hK => ?_
  obtain ⟨w', h1, h2, h3, h4⟩ := exec_storeF (a := a) p x ho g i off he l n hp hx hr hi
  unfold Oper.wp
  rw [h1]
  exact hK _ _ (h w' h2 h3 h4)
theorem wpList_storeP {ops : Array Oper} {rest : List Oper} {o : Oper} {a : Act} {w : World} {Q : Exit → Act → World → Prop} (hgd : Region.wanted o (yielded ops a.tmps) = true) (p x : Operand) (ho : o.op = .store 35 p x) (g : Nat) (l : List Nat) (m n : Nat) (hp : a.eval p = .pointer (some ⟨g, 0, none⟩)) (hx : a.eval x = vR [m, n]) (hr : RAt w g l) (hl : l.length = 2)
    (h : ∀ w', RAt w' g [m, n] → w.grownBy w' (some g) → w'.heap.size = w.heap.size → wpList Try.prog ops Q rest (a.put o.dst undef) w') : wpList Try.prog ops Q (o :: rest) a w := by
  refine wpList_want hgd fun K hK => ?_
  obtain ⟨w', h1, h2, h3, h4⟩ := exec_storeP (a := a) p x ho g l m n hp hx hr hl
  unfold Oper.wp
  rw [h1]
  exact hK _ _ (h w' h2 h3 h4)
section
variable {md : Region.Mode} {ops : Array Oper} {Q : Exit → Act → World → Prop} {W : Nat → Bool} {lo fuel : Nat} {listed : Array Bool} {a : Act} {w : World}
theorem storeW_F {i : Nat} {oi : Oper} (hi : ops[i]? = some oi) (hr : Region.ready md ops listed = [i]) (hw : Region.wanted oi (yielded ops a.tmps) = true)
    (p x : Operand) (ho : oi.op = .store 23 p x) (g k off : Nat) (he : off = 32 * k) (l : List Nat) (n : Nat) (hp : a.eval p = .pointer (some ⟨g, off, none⟩)) (hx : a.eval x = vN n) (hrow : RAt w g l) (hk : k < l.length) (hW : W i = true)
    (h : ∀ w', RAt w' g (l.set k n) → w.grownBy w' (some g) → w'.heap.size = w.heap.size → wpAnyW Try.prog md ops Q W lo fuel (listed.setIfInBounds i true) (a.put oi.dst undef) w') : wpAnyW Try.prog md ops Q W lo (fuel + 1) listed a w := by
  obtain ⟨w', h2, h3, h4, h5⟩ := exec_storeF (a := a) (w := w) (o := oi) p x ho g k off he l n hp hx hrow hk
  exact storeW w' hi hr hw h2 (fun h => by rw [hW] at h; cases h) (h w' h3 h4 h5)
theorem storeW_P {i : Nat} {oi : Oper} (hi : ops[i]? = some oi) (hr : Region.ready md ops listed = [i]) (hw : Region.wanted oi (yielded ops a.tmps) = true)
    (p x : Operand) (ho : oi.op = .store 35 p x) (g : Nat) (l : List Nat) (m n : Nat) (hp : a.eval p = .pointer (some ⟨g, 0, none⟩)) (hx : a.eval x = vR [m, n]) (hrow : RAt w g l) (hl : l.length = 2) (hW : W i = true)
    (h : ∀ w', RAt w' g [m, n] → w.grownBy w' (some g) → w'.heap.size = w.heap.size → wpAnyW Try.prog md ops Q W lo fuel (listed.setIfInBounds i true) (a.put oi.dst undef) w') : wpAnyW Try.prog md ops Q W lo (fuel + 1) listed a w := by
  obtain ⟨w', h2, h3, h4, h5⟩ := exec_storeP (a := a) (w := w) (o := oi) p x ho g l m n hp hx hrow hl
  exact storeW w' hi hr hw h2 (fun h => by rw [hW] at h; cases h) (h w' h3 h4 h5)
end
theorem Keeps.newrow {G : Nat → Prop} {w x y : World} {r : Nat} (h : Keeps G w x) (hg : x.grownBy y (some r)) (hr : w.heap.size ≤ r) : Keeps G w y :=
  ⟨hg.os.trans h.os, hg.tape.trans h.tape, hg.output.trans h.output, Nat.le_trans h.size hg.size, fun k hk hn => (hg.block k (Nat.lt_of_lt_of_le hk h.size) (by simp; omega)).trans (h.block k hk hn)⟩
theorem Keeps.ownrow {w x y : World} {g : Nat} (h : Keeps (· = g) w x) (hg : x.grownBy y (some g)) : Keeps (· = g) w y :=
  h.trans (Keeps.of_grown hg (fun r hr => by injection hr with hr; exact hr.symm))
theorem Keeps.call {G : Nat → Prop} {w x y : World} (h : Keeps G w x) (hb : Below x.heap.size x y) : Keeps G w y := h.trans (Keeps.of_below hb)
theorem Keeps.alloc {G : Nat → Prop} {w x y : World} (h : Keeps G w x) (hg : x.grownBy y none) : Keeps G w y := h.trans (Keeps.of_grown hg (fun r hr => by cases hr))
theorem drew_rel {w x : World} {G : Nat → Prop} (h : Keeps G w x) : Keeps G w x.drew := h.trans (Keeps.drew _ _)
/-- What a method leaves that changes the numbers at g. -/
def SetsR (g : Nat) (l : List Nat) (w : World) (e : Ending) (w' : World) : Prop := e = .returned (.tuple #[]) ∧ RAt w' g l ∧ Keeps (· = g) w w'
end Go.Proofs.Ytgdimnbdnepbgaa
/- Points in extended coordinates: read, divide. No statement is proved here. -/
namespace Go.Proofs.Ytgdimnbdnepbgaa
open Go.RowKit
set_option linter.unusedVariables false
set_option maxRecDepth 40000
set_option linter.unusedSimpArgs false

set_option maxHeartbeats 4000000 in
theorem divide_core (g g1 g2 g3 g4 r0 r1 r2 r3 x ox y oy X Y Z T : Nat) (w : World)
    (H1 : Hid (∀ w, Calls Try.prog 25 #[vN x, vN oy] w (Gives (vN X) w))) (H2 : Hid (∀ w, Calls Try.prog 25 #[vN y, vN ox] w (Gives (vN Y) w)))
    (H3 : Hid (∀ w, Calls Try.prog 25 #[vN ox, vN oy] w (Gives (vN Z) w))) (H4 : Hid (∀ w, Calls Try.prog 25 #[vN x, vN y] w (Gives (vN T) w)))
    (RG_0 : Hid (RAt w g [r0, r1, r2, r3])) (RX_0 : Hid (RAt w g1 [x])) (RO_0 : Hid (RAt w g2 [ox])) (RY_0 : Hid (RAt w g3 [y])) (RP_0 : Hid (RAt w g4 [oy]))
    (HN1 : Hid (g ≠ g1)) (HN2 : Hid (g ≠ g2)) (HN3 : Hid (g ≠ g3)) (HN4 : Hid (g ≠ g4)) :
    Calls Try.prog 100 #[.pointer (some ⟨g, 0, none⟩), .pointer (some ⟨g1, 0, none⟩), .pointer (some ⟨g2, 0, none⟩), .pointer (some ⟨g3, 0, none⟩), .pointer (some ⟨g4, 0, none⟩)] w (SetsR g [X, Y, Z, T] w) := by
  have HF_0 : Hid (Keeps (· = g) w w) := Lib.hid (Keeps.refl _ _)
  go_enter Try.func100, Try.ntmps100
  go_wp2_with fail
  have HLT1_0 : Hid (g < w.heap.size) := Lib.hid RG_0.out.lt
  have HLT1_1 : Hid (g1 < w.heap.size) := Lib.hid RX_0.out.lt
  have HLT1_2 : Hid (g2 < w.heap.size) := Lib.hid RO_0.out.lt
  have HLT1_3 : Hid (g3 < w.heap.size) := Lib.hid RY_0.out.lt
  have HLT1_4 : Hid (g4 < w.heap.size) := Lib.hid RP_0.out.lt
  have HLO1 : Hid (w.heap.size ≤ w.heap.size) := Lib.hid HF_0.out.size
  refine region_split (fun a' W => RAt W g [X, r1, r2, r3] ∧ RAt W g1 [x] ∧ RAt W g2 [ox] ∧ RAt W g3 [y] ∧ RAt W g4 [oy] ∧ Keeps (· = g) w W ∧ a' = ⟨#[.pointer (some ⟨g, 0, none⟩), .pointer (some ⟨g1, 0, none⟩), .pointer (some ⟨g2, 0, none⟩), .pointer (some ⟨g3, 0, none⟩), .pointer (some ⟨g4, 0, none⟩), undef, undef, undef, undef, undef, .pointer (some ⟨g, 0, none⟩), .pointer (some ⟨g1, 0, none⟩), .pointer (some ⟨g1, 0, none⟩), vN x, .pointer (some ⟨g4, 0, none⟩), .pointer (some ⟨g4, 0, none⟩), vN oy, vN X, .pointer (some ⟨g, 0, none⟩), .pointer (some ⟨g, 0, none⟩), undef, undef, undef, undef, undef, undef, undef, undef, undef, undef, undef, undef, undef, undef, undef, undef, undef, undef, undef, undef, undef, undef, undef, undef, undef, undef, undef, undef, undef, undef], []⟩) ?_ ?_
  · refine startW (fun j => j == 10) (w.heap.size) (by kernel_rfl) ?_
    obtain ⟨D1, hD1⟩ : ∃ D, D = w.drew := ⟨_, rfl⟩
    rw [← hD1]
    have HL_1 : Hid (w.heap.size ≤ D1.heap.size) := Lib.hid (by rw [hD1]; exact Nat.le_refl _)
    have RG_1 : Hid (RAt D1 g [r0, r1, r2, r3]) := Lib.hid (by rw [hD1]; exact RG_0.out)
    have RX_1 : Hid (RAt D1 g1 [x]) := Lib.hid (by rw [hD1]; exact RX_0.out)
    have RO_1 : Hid (RAt D1 g2 [ox]) := Lib.hid (by rw [hD1]; exact RO_0.out)
    have RY_1 : Hid (RAt D1 g3 [y]) := Lib.hid (by rw [hD1]; exact RY_0.out)
    have RP_1 : Hid (RAt D1 g4 [oy]) := Lib.hid (by rw [hD1]; exact RP_0.out)
    have HF_1 : Hid (Keeps (· = g) w D1) := Lib.hid (by rw [hD1]; exact drew_rel HF_0.out)
    clear hD1 RG_0 RX_0 RO_0 RY_0 RP_0 HF_0
    refine takeAE (i := 0) (oi := { dst := some 10, op := Op.move (Operand.tmp 0), type := 80, pos := "extended.go:51", after := #[], guard := none }) rfl (by kernel_rfl) (by kernel_rfl) (by kernel_rfl) (fun _ _ _ _ h => nomatch h.1) (by rfl) ?_
    refine ⟨.pointer (some ⟨g, 0, none⟩), fun w' => exec_move (.tmp 0) rfl _ rfl, ?_⟩
    simp only [Act.put, List.setIfInBounds_toArray, List.set_cons_zero, List.set_cons_succ]
    refine takeAE (i := 1) (oi := { dst := some 11, op := Op.move (Operand.tmp 1), type := 62, pos := "extended.go:51", after := #[], guard := none }) rfl (by kernel_rfl) (by kernel_rfl) (by kernel_rfl) (fun _ _ _ _ h => nomatch h.1) (by rfl) ?_
    refine ⟨.pointer (some ⟨g1, 0, none⟩), fun w' => exec_move (.tmp 1) rfl _ rfl, ?_⟩
    simp only [Act.put, List.setIfInBounds_toArray, List.set_cons_zero, List.set_cons_succ]
    refine takeAE (i := 2) (oi := { dst := some 12, op := Op.nilCheck (Operand.tmp 11), type := 0, pos := "extended.go:51", after := #[{ on := 1, ground := Ground.data }], guard := none }) rfl (by kernel_rfl) (by kernel_rfl) (by kernel_rfl) (fun _ _ _ _ h => nomatch h.1) (by rfl) ?_
    refine ⟨.pointer (some ⟨g1, 0, none⟩), fun w' => exec_nil (.tmp 11) rfl _ rfl, ?_⟩
    simp only [Act.put, List.setIfInBounds_toArray, List.set_cons_zero, List.set_cons_succ]
    refine takeT (i := 3) (oi := { dst := some 13, op := Op.load 23 (Operand.tmp 12), type := 23, pos := "extended.go:51", after := #[{ on := 2, ground := Ground.data }], guard := none }) (vN x) rfl (by kernel_rfl) (by kernel_rfl) (by kernel_rfl) (by kernel_rfl) (by kernel_rfl) (fun _ _ _ h => nomatch h.1) (by rfl) (fun w' hk => exec_loadF (.tmp 12) rfl (g1) 0 0 rfl [x] x rfl (RX_1.out.below hk HLT1_1.out) rfl) ?_
    simp only [Act.put, List.setIfInBounds_toArray, List.set_cons_zero, List.set_cons_succ]
    refine takeAE (i := 4) (oi := { dst := some 14, op := Op.move (Operand.tmp 4), type := 62, pos := "extended.go:51", after := #[], guard := none }) rfl (by kernel_rfl) (by kernel_rfl) (by kernel_rfl) (fun _ _ _ _ h => nomatch h.1) (by rfl) ?_
    refine ⟨.pointer (some ⟨g4, 0, none⟩), fun w' => exec_move (.tmp 4) rfl _ rfl, ?_⟩
    simp only [Act.put, List.setIfInBounds_toArray, List.set_cons_zero, List.set_cons_succ]
    refine takeAE (i := 5) (oi := { dst := some 15, op := Op.nilCheck (Operand.tmp 14), type := 0, pos := "extended.go:51", after := #[{ on := 4, ground := Ground.data }], guard := none }) rfl (by kernel_rfl) (by kernel_rfl) (by kernel_rfl) (fun _ _ _ _ h => nomatch h.1) (by rfl) ?_
    refine ⟨.pointer (some ⟨g4, 0, none⟩), fun w' => exec_nil (.tmp 14) rfl _ rfl, ?_⟩
    simp only [Act.put, List.setIfInBounds_toArray, List.set_cons_zero, List.set_cons_succ]
    refine takeT (i := 6) (oi := { dst := some 16, op := Op.load 23 (Operand.tmp 15), type := 23, pos := "extended.go:51", after := #[{ on := 5, ground := Ground.data }], guard := none }) (vN oy) rfl (by kernel_rfl) (by kernel_rfl) (by kernel_rfl) (by kernel_rfl) (by kernel_rfl) (fun _ _ _ h => nomatch h.1) (by rfl) (fun w' hk => exec_loadF (.tmp 15) rfl (g4) 0 0 rfl [oy] oy rfl (RP_1.out.below hk HLT1_4.out) rfl) ?_
    simp only [Act.put, List.setIfInBounds_toArray, List.set_cons_zero, List.set_cons_succ]
    refine callW (i := 7) (oi := { dst := some 17, op := Op.call { callee := Callee.value (Operand.func 25), args := #[Operand.tmp 13, Operand.tmp 16], argTypes := #[23, 23] }, type := 23, pos := "extended.go:51", after := #[{ on := 3, ground := Ground.data }, { on := 6, ground := Ground.data }], guard := none }) rfl (by kernel_rfl) (by rfl) (exec_callL 25 [.tmp 13, .tmp 16] #[23, 23] rfl [vN x, vN oy] rfl (CG25 _)) ((H1.out D1).mono ?_)
    rintro e2 W2 ⟨rfl, hb2⟩
    refine ⟨_, rfl, fun _ => hb2.mono HL_1.out, ?_⟩
    have RG_2 := Lib.hid (RG_1.out.keep hb2)
    have RX_2 := Lib.hid (RX_1.out.keep hb2)
    have RO_2 := Lib.hid (RO_1.out.keep hb2)
    have RY_2 := Lib.hid (RY_1.out.keep hb2)
    have RP_2 := Lib.hid (RP_1.out.keep hb2)
    have HF_2 : Hid (Keeps (· = g) w W2) := Lib.hid (HF_1.out.call hb2)
    have HL_2 : Hid (w.heap.size ≤ W2.heap.size) := Lib.hid (Nat.le_trans HL_1.out hb2.size)
    clear hb2 HL_1 RG_1 RX_1 RO_1 RY_1 RP_1 HF_1
    simp only [Act.put, List.setIfInBounds_toArray, List.set_cons_zero, List.set_cons_succ]
    refine takeAE (i := 8) (oi := { dst := some 18, op := Op.nilCheck (Operand.tmp 10), type := 0, pos := "extended.go:51", after := #[{ on := 0, ground := Ground.data }, { on := 0, ground := Ground.phase }, { on := 1, ground := Ground.phase }, { on := 2, ground := Ground.phase }, { on := 3, ground := Ground.phase }, { on := 4, ground := Ground.phase }, { on := 5, ground := Ground.phase }, { on := 6, ground := Ground.phase }, { on := 7, ground := Ground.phase }], guard := none }) rfl (by kernel_rfl) (by kernel_rfl) (by kernel_rfl) (fun _ _ _ _ h => nomatch h.1) (by rfl) ?_
    refine ⟨.pointer (some ⟨g, 0, none⟩), fun w' => exec_nil (.tmp 10) rfl _ rfl, ?_⟩
    simp only [Act.put, List.setIfInBounds_toArray, List.set_cons_zero, List.set_cons_succ]
    refine takeAE (i := 9) (oi := { dst := some 19, op := Op.fieldAddr 76 (Operand.tmp 18) 0, type := 0, pos := "extended.go:51", after := #[{ on := 8, ground := Ground.data }, { on := 0, ground := Ground.phase }, { on := 1, ground := Ground.phase }, { on := 2, ground := Ground.phase }, { on := 3, ground := Ground.phase }, { on := 4, ground := Ground.phase }, { on := 5, ground := Ground.phase }, { on := 6, ground := Ground.phase }, { on := 7, ground := Ground.phase }], guard := none }) rfl (by kernel_rfl) (by kernel_rfl) (by kernel_rfl) (fun _ _ _ _ h => nomatch h.1) (by rfl) ?_
    refine ⟨.pointer (some ⟨g, 0, none⟩), fun w' => exec_field 76 (.tmp 18) 0 rfl _ 0 rfl (fld76_0 _), ?_⟩
    simp only [Act.put, List.setIfInBounds_toArray, List.set_cons_zero, List.set_cons_succ]
    refine storeW_F (i := 10) (oi := { dst := none, op := Op.store 23 (Operand.tmp 19) (Operand.tmp 17), type := 0, pos := "extended.go:51", after := #[{ on := 9, ground := Ground.data }, { on := 7, ground := Ground.data }, { on := 7, ground := Ground.chain }, { on := 0, ground := Ground.phase }, { on := 1, ground := Ground.phase }, { on := 2, ground := Ground.phase }, { on := 3, ground := Ground.phase }, { on := 4, ground := Ground.phase }, { on := 5, ground := Ground.phase }, { on := 6, ground := Ground.phase }, { on := 7, ground := Ground.phase }], guard := none }) rfl (by kernel_rfl) (by rfl) (.tmp 19) (.tmp 17) rfl (g) 0 0 rfl [r0, r1, r2, r3] X rfl rfl RG_2.out (show 0 < 4 by omega) rfl ?_
    intro W3 hr3 hg3 hz3
    simp only [Act.put, List.setIfInBounds_toArray, List.set_cons_zero, List.set_cons_succ]
    have RG_3 : Hid (RAt W3 g [X, r1, r2, r3]) := Lib.hid hr3
    have RX_3 := Lib.hid (RX_2.out.grown hg3 (by have := HN1.out; simp; omega))
    have RO_3 := Lib.hid (RO_2.out.grown hg3 (by have := HN2.out; simp; omega))
    have RY_3 := Lib.hid (RY_2.out.grown hg3 (by have := HN3.out; simp; omega))
    have RP_3 := Lib.hid (RP_2.out.grown hg3 (by have := HN4.out; simp; omega))
    have HF_3 : Hid (Keeps (· = g) w W3) := Lib.hid (HF_2.out.ownrow hg3)
    have HL_3 : Hid (w.heap.size ≤ W3.heap.size) := Lib.hid (Nat.le_trans HL_2.out hg3.size)
    clear hr3 hg3 hz3 HL_2 RG_2 RX_2 RO_2 RY_2 RP_2 HF_2
    refine doneW (by kernel_rfl) ⟨rfl, ?_⟩ _
    exact ⟨RG_3.out, RX_3.out, RO_3.out, RY_3.out, RP_3.out, HF_3.out, rfl⟩
  rintro a' v4 ⟨h0, h1, h2, h3, h4, hF, rfl⟩
  have RG_4 := Lib.hid h0
  have RX_4 := Lib.hid h1
  have RO_4 := Lib.hid h2
  have RY_4 := Lib.hid h3
  have RP_4 := Lib.hid h4
  have HF_4 := Lib.hid hF
  clear h0 h1 h2 h3 h4 hF HLT1_0 HLT1_1 HLT1_2 HLT1_3 HLT1_4 HLO1 RG_0 RX_0 RO_0 RY_0 RP_0 HF_0
  go_wp2_with fail
  have HLT5_0 : Hid (g < v4.heap.size) := Lib.hid RG_4.out.lt
  have HLT5_1 : Hid (g1 < v4.heap.size) := Lib.hid RX_4.out.lt
  have HLT5_2 : Hid (g2 < v4.heap.size) := Lib.hid RO_4.out.lt
  have HLT5_3 : Hid (g3 < v4.heap.size) := Lib.hid RY_4.out.lt
  have HLT5_4 : Hid (g4 < v4.heap.size) := Lib.hid RP_4.out.lt
  have HLO5 : Hid (w.heap.size ≤ v4.heap.size) := Lib.hid HF_4.out.size
  refine region_split (fun a' W => RAt W g [X, Y, r2, r3] ∧ RAt W g1 [x] ∧ RAt W g2 [ox] ∧ RAt W g3 [y] ∧ RAt W g4 [oy] ∧ Keeps (· = g) w W ∧ a' = ⟨#[.pointer (some ⟨g, 0, none⟩), .pointer (some ⟨g1, 0, none⟩), .pointer (some ⟨g2, 0, none⟩), .pointer (some ⟨g3, 0, none⟩), .pointer (some ⟨g4, 0, none⟩), undef, undef, undef, undef, undef, .pointer (some ⟨g, 0, none⟩), .pointer (some ⟨g1, 0, none⟩), .pointer (some ⟨g1, 0, none⟩), vN x, .pointer (some ⟨g4, 0, none⟩), .pointer (some ⟨g4, 0, none⟩), vN oy, vN X, .pointer (some ⟨g, 0, none⟩), .pointer (some ⟨g, 0, none⟩), .pointer (some ⟨g, 0, none⟩), .pointer (some ⟨g3, 0, none⟩), .pointer (some ⟨g3, 0, none⟩), vN y, .pointer (some ⟨g2, 0, none⟩), .pointer (some ⟨g2, 0, none⟩), vN ox, vN Y, .pointer (some ⟨g, 0, none⟩), .pointer (some ⟨g, 32, none⟩), undef, undef, undef, undef, undef, undef, undef, undef, undef, undef, undef, undef, undef, undef, undef, undef, undef, undef, undef, undef], []⟩) ?_ ?_
  · refine startW (fun j => j == 10) (v4.heap.size) (by kernel_rfl) ?_
    obtain ⟨D5, hD5⟩ : ∃ D, D = v4.drew := ⟨_, rfl⟩
    rw [← hD5]
    have HL_5 : Hid (v4.heap.size ≤ D5.heap.size) := Lib.hid (by rw [hD5]; exact Nat.le_refl _)
    have RG_5 : Hid (RAt D5 g [X, r1, r2, r3]) := Lib.hid (by rw [hD5]; exact RG_4.out)
    have RX_5 : Hid (RAt D5 g1 [x]) := Lib.hid (by rw [hD5]; exact RX_4.out)
    have RO_5 : Hid (RAt D5 g2 [ox]) := Lib.hid (by rw [hD5]; exact RO_4.out)
    have RY_5 : Hid (RAt D5 g3 [y]) := Lib.hid (by rw [hD5]; exact RY_4.out)
    have RP_5 : Hid (RAt D5 g4 [oy]) := Lib.hid (by rw [hD5]; exact RP_4.out)
    have HF_5 : Hid (Keeps (· = g) w D5) := Lib.hid (by rw [hD5]; exact drew_rel HF_4.out)
    clear hD5 RG_4 RX_4 RO_4 RY_4 RP_4 HF_4
    refine takeAE (i := 0) (oi := { dst := some 20, op := Op.move (Operand.tmp 0), type := 80, pos := "extended.go:52", after := #[], guard := none }) rfl (by kernel_rfl) (by kernel_rfl) (by kernel_rfl) (fun _ _ _ _ h => nomatch h.1) (by rfl) ?_
    refine ⟨.pointer (some ⟨g, 0, none⟩), fun w' => exec_move (.tmp 0) rfl _ rfl, ?_⟩
    simp only [Act.put, List.setIfInBounds_toArray, List.set_cons_zero, List.set_cons_succ]
    refine takeAE (i := 1) (oi := { dst := some 21, op := Op.move (Operand.tmp 3), type := 62, pos := "extended.go:52", after := #[], guard := none }) rfl (by kernel_rfl) (by kernel_rfl) (by kernel_rfl) (fun _ _ _ _ h => nomatch h.1) (by rfl) ?_
    refine ⟨.pointer (some ⟨g3, 0, none⟩), fun w' => exec_move (.tmp 3) rfl _ rfl, ?_⟩
    simp only [Act.put, List.setIfInBounds_toArray, List.set_cons_zero, List.set_cons_succ]
    refine takeAE (i := 2) (oi := { dst := some 22, op := Op.nilCheck (Operand.tmp 21), type := 0, pos := "extended.go:52", after := #[{ on := 1, ground := Ground.data }], guard := none }) rfl (by kernel_rfl) (by kernel_rfl) (by kernel_rfl) (fun _ _ _ _ h => nomatch h.1) (by rfl) ?_
    refine ⟨.pointer (some ⟨g3, 0, none⟩), fun w' => exec_nil (.tmp 21) rfl _ rfl, ?_⟩
    simp only [Act.put, List.setIfInBounds_toArray, List.set_cons_zero, List.set_cons_succ]
    refine takeT (i := 3) (oi := { dst := some 23, op := Op.load 23 (Operand.tmp 22), type := 23, pos := "extended.go:52", after := #[{ on := 2, ground := Ground.data }], guard := none }) (vN y) rfl (by kernel_rfl) (by kernel_rfl) (by kernel_rfl) (by kernel_rfl) (by kernel_rfl) (fun _ _ _ h => nomatch h.1) (by rfl) (fun w' hk => exec_loadF (.tmp 22) rfl (g3) 0 0 rfl [y] y rfl (RY_5.out.below hk HLT5_3.out) rfl) ?_
    simp only [Act.put, List.setIfInBounds_toArray, List.set_cons_zero, List.set_cons_succ]
    refine takeAE (i := 4) (oi := { dst := some 24, op := Op.move (Operand.tmp 2), type := 62, pos := "extended.go:52", after := #[], guard := none }) rfl (by kernel_rfl) (by kernel_rfl) (by kernel_rfl) (fun _ _ _ _ h => nomatch h.1) (by rfl) ?_
    refine ⟨.pointer (some ⟨g2, 0, none⟩), fun w' => exec_move (.tmp 2) rfl _ rfl, ?_⟩
    simp only [Act.put, List.setIfInBounds_toArray, List.set_cons_zero, List.set_cons_succ]
    refine takeAE (i := 5) (oi := { dst := some 25, op := Op.nilCheck (Operand.tmp 24), type := 0, pos := "extended.go:52", after := #[{ on := 4, ground := Ground.data }], guard := none }) rfl (by kernel_rfl) (by kernel_rfl) (by kernel_rfl) (fun _ _ _ _ h => nomatch h.1) (by rfl) ?_
    refine ⟨.pointer (some ⟨g2, 0, none⟩), fun w' => exec_nil (.tmp 24) rfl _ rfl, ?_⟩
    simp only [Act.put, List.setIfInBounds_toArray, List.set_cons_zero, List.set_cons_succ]
    refine takeT (i := 6) (oi := { dst := some 26, op := Op.load 23 (Operand.tmp 25), type := 23, pos := "extended.go:52", after := #[{ on := 5, ground := Ground.data }], guard := none }) (vN ox) rfl (by kernel_rfl) (by kernel_rfl) (by kernel_rfl) (by kernel_rfl) (by kernel_rfl) (fun _ _ _ h => nomatch h.1) (by rfl) (fun w' hk => exec_loadF (.tmp 25) rfl (g2) 0 0 rfl [ox] ox rfl (RO_5.out.below hk HLT5_2.out) rfl) ?_
    simp only [Act.put, List.setIfInBounds_toArray, List.set_cons_zero, List.set_cons_succ]
    refine callW (i := 7) (oi := { dst := some 27, op := Op.call { callee := Callee.value (Operand.func 25), args := #[Operand.tmp 23, Operand.tmp 26], argTypes := #[23, 23] }, type := 23, pos := "extended.go:52", after := #[{ on := 3, ground := Ground.data }, { on := 6, ground := Ground.data }], guard := none }) rfl (by kernel_rfl) (by rfl) (exec_callL 25 [.tmp 23, .tmp 26] #[23, 23] rfl [vN y, vN ox] rfl (CG25 _)) ((H2.out D5).mono ?_)
    rintro e6 W6 ⟨rfl, hb6⟩
    refine ⟨_, rfl, fun _ => hb6.mono HL_5.out, ?_⟩
    have RG_6 := Lib.hid (RG_5.out.keep hb6)
    have RX_6 := Lib.hid (RX_5.out.keep hb6)
    have RO_6 := Lib.hid (RO_5.out.keep hb6)
    have RY_6 := Lib.hid (RY_5.out.keep hb6)
    have RP_6 := Lib.hid (RP_5.out.keep hb6)
    have HF_6 : Hid (Keeps (· = g) w W6) := Lib.hid (HF_5.out.call hb6)
    have HL_6 : Hid (v4.heap.size ≤ W6.heap.size) := Lib.hid (Nat.le_trans HL_5.out hb6.size)
    clear hb6 HL_5 RG_5 RX_5 RO_5 RY_5 RP_5 HF_5
    simp only [Act.put, List.setIfInBounds_toArray, List.set_cons_zero, List.set_cons_succ]
    refine takeAE (i := 8) (oi := { dst := some 28, op := Op.nilCheck (Operand.tmp 20), type := 0, pos := "extended.go:52", after := #[{ on := 0, ground := Ground.data }, { on := 0, ground := Ground.phase }, { on := 1, ground := Ground.phase }, { on := 2, ground := Ground.phase }, { on := 3, ground := Ground.phase }, { on := 4, ground := Ground.phase }, { on := 5, ground := Ground.phase }, { on := 6, ground := Ground.phase }, { on := 7, ground := Ground.phase }], guard := none }) rfl (by kernel_rfl) (by kernel_rfl) (by kernel_rfl) (fun _ _ _ _ h => nomatch h.1) (by rfl) ?_
    refine ⟨.pointer (some ⟨g, 0, none⟩), fun w' => exec_nil (.tmp 20) rfl _ rfl, ?_⟩
    simp only [Act.put, List.setIfInBounds_toArray, List.set_cons_zero, List.set_cons_succ]
    refine takeAE (i := 9) (oi := { dst := some 29, op := Op.fieldAddr 76 (Operand.tmp 28) 1, type := 0, pos := "extended.go:52", after := #[{ on := 8, ground := Ground.data }, { on := 0, ground := Ground.phase }, { on := 1, ground := Ground.phase }, { on := 2, ground := Ground.phase }, { on := 3, ground := Ground.phase }, { on := 4, ground := Ground.phase }, { on := 5, ground := Ground.phase }, { on := 6, ground := Ground.phase }, { on := 7, ground := Ground.phase }], guard := none }) rfl (by kernel_rfl) (by kernel_rfl) (by kernel_rfl) (fun _ _ _ _ h => nomatch h.1) (by rfl) ?_
    refine ⟨.pointer (some ⟨g, 32, none⟩), fun w' => exec_field 76 (.tmp 28) 1 rfl _ 32 rfl (fld76_1 _), ?_⟩
    simp only [Act.put, List.setIfInBounds_toArray, List.set_cons_zero, List.set_cons_succ]
    refine storeW_F (i := 10) (oi := { dst := none, op := Op.store 23 (Operand.tmp 29) (Operand.tmp 27), type := 0, pos := "extended.go:52", after := #[{ on := 9, ground := Ground.data }, { on := 7, ground := Ground.data }, { on := 7, ground := Ground.chain }, { on := 0, ground := Ground.phase }, { on := 1, ground := Ground.phase }, { on := 2, ground := Ground.phase }, { on := 3, ground := Ground.phase }, { on := 4, ground := Ground.phase }, { on := 5, ground := Ground.phase }, { on := 6, ground := Ground.phase }, { on := 7, ground := Ground.phase }], guard := none }) rfl (by kernel_rfl) (by rfl) (.tmp 29) (.tmp 27) rfl (g) 1 32 rfl [X, r1, r2, r3] Y rfl rfl RG_6.out (show 1 < 4 by omega) rfl ?_
    intro W7 hr7 hg7 hz7
    simp only [Act.put, List.setIfInBounds_toArray, List.set_cons_zero, List.set_cons_succ]
    have RG_7 : Hid (RAt W7 g [X, Y, r2, r3]) := Lib.hid hr7
    have RX_7 := Lib.hid (RX_6.out.grown hg7 (by have := HN1.out; simp; omega))
    have RO_7 := Lib.hid (RO_6.out.grown hg7 (by have := HN2.out; simp; omega))
    have RY_7 := Lib.hid (RY_6.out.grown hg7 (by have := HN3.out; simp; omega))
    have RP_7 := Lib.hid (RP_6.out.grown hg7 (by have := HN4.out; simp; omega))
    have HF_7 : Hid (Keeps (· = g) w W7) := Lib.hid (HF_6.out.ownrow hg7)
    have HL_7 : Hid (v4.heap.size ≤ W7.heap.size) := Lib.hid (Nat.le_trans HL_6.out hg7.size)
    clear hr7 hg7 hz7 HL_6 RG_6 RX_6 RO_6 RY_6 RP_6 HF_6
    refine doneW (by kernel_rfl) ⟨rfl, ?_⟩ _
    exact ⟨RG_7.out, RX_7.out, RO_7.out, RY_7.out, RP_7.out, HF_7.out, rfl⟩
  rintro a' v8 ⟨h0, h1, h2, h3, h4, hF, rfl⟩
  have RG_8 := Lib.hid h0
  have RX_8 := Lib.hid h1
  have RO_8 := Lib.hid h2
  have RY_8 := Lib.hid h3
  have RP_8 := Lib.hid h4
  have HF_8 := Lib.hid hF
  clear h0 h1 h2 h3 h4 hF HLT5_0 HLT5_1 HLT5_2 HLT5_3 HLT5_4 HLO5 RG_4 RX_4 RO_4 RY_4 RP_4 HF_4
  go_wp2_with fail
  have HLT9_0 : Hid (g < v8.heap.size) := Lib.hid RG_8.out.lt
  have HLT9_1 : Hid (g1 < v8.heap.size) := Lib.hid RX_8.out.lt
  have HLT9_2 : Hid (g2 < v8.heap.size) := Lib.hid RO_8.out.lt
  have HLT9_3 : Hid (g3 < v8.heap.size) := Lib.hid RY_8.out.lt
  have HLT9_4 : Hid (g4 < v8.heap.size) := Lib.hid RP_8.out.lt
  have HLO9 : Hid (w.heap.size ≤ v8.heap.size) := Lib.hid HF_8.out.size
  refine region_split (fun a' W => RAt W g [X, Y, Z, r3] ∧ RAt W g1 [x] ∧ RAt W g2 [ox] ∧ RAt W g3 [y] ∧ RAt W g4 [oy] ∧ Keeps (· = g) w W ∧ a' = ⟨#[.pointer (some ⟨g, 0, none⟩), .pointer (some ⟨g1, 0, none⟩), .pointer (some ⟨g2, 0, none⟩), .pointer (some ⟨g3, 0, none⟩), .pointer (some ⟨g4, 0, none⟩), undef, undef, undef, undef, undef, .pointer (some ⟨g, 0, none⟩), .pointer (some ⟨g1, 0, none⟩), .pointer (some ⟨g1, 0, none⟩), vN x, .pointer (some ⟨g4, 0, none⟩), .pointer (some ⟨g4, 0, none⟩), vN oy, vN X, .pointer (some ⟨g, 0, none⟩), .pointer (some ⟨g, 0, none⟩), .pointer (some ⟨g, 0, none⟩), .pointer (some ⟨g3, 0, none⟩), .pointer (some ⟨g3, 0, none⟩), vN y, .pointer (some ⟨g2, 0, none⟩), .pointer (some ⟨g2, 0, none⟩), vN ox, vN Y, .pointer (some ⟨g, 0, none⟩), .pointer (some ⟨g, 32, none⟩), .pointer (some ⟨g, 0, none⟩), .pointer (some ⟨g2, 0, none⟩), .pointer (some ⟨g2, 0, none⟩), vN ox, .pointer (some ⟨g4, 0, none⟩), .pointer (some ⟨g4, 0, none⟩), vN oy, vN Z, .pointer (some ⟨g, 0, none⟩), .pointer (some ⟨g, 64, none⟩), undef, undef, undef, undef, undef, undef, undef, undef, undef, undef], []⟩) ?_ ?_
  · refine startW (fun j => j == 10) (v8.heap.size) (by kernel_rfl) ?_
    obtain ⟨D9, hD9⟩ : ∃ D, D = v8.drew := ⟨_, rfl⟩
    rw [← hD9]
    have HL_9 : Hid (v8.heap.size ≤ D9.heap.size) := Lib.hid (by rw [hD9]; exact Nat.le_refl _)
    have RG_9 : Hid (RAt D9 g [X, Y, r2, r3]) := Lib.hid (by rw [hD9]; exact RG_8.out)
    have RX_9 : Hid (RAt D9 g1 [x]) := Lib.hid (by rw [hD9]; exact RX_8.out)
    have RO_9 : Hid (RAt D9 g2 [ox]) := Lib.hid (by rw [hD9]; exact RO_8.out)
    have RY_9 : Hid (RAt D9 g3 [y]) := Lib.hid (by rw [hD9]; exact RY_8.out)
    have RP_9 : Hid (RAt D9 g4 [oy]) := Lib.hid (by rw [hD9]; exact RP_8.out)
    have HF_9 : Hid (Keeps (· = g) w D9) := Lib.hid (by rw [hD9]; exact drew_rel HF_8.out)
    clear hD9 RG_8 RX_8 RO_8 RY_8 RP_8 HF_8
    refine takeAE (i := 0) (oi := { dst := some 30, op := Op.move (Operand.tmp 0), type := 80, pos := "extended.go:53", after := #[], guard := none }) rfl (by kernel_rfl) (by kernel_rfl) (by kernel_rfl) (fun _ _ _ _ h => nomatch h.1) (by rfl) ?_
    refine ⟨.pointer (some ⟨g, 0, none⟩), fun w' => exec_move (.tmp 0) rfl _ rfl, ?_⟩
    simp only [Act.put, List.setIfInBounds_toArray, List.set_cons_zero, List.set_cons_succ]
    refine takeAE (i := 1) (oi := { dst := some 31, op := Op.move (Operand.tmp 2), type := 62, pos := "extended.go:53", after := #[], guard := none }) rfl (by kernel_rfl) (by kernel_rfl) (by kernel_rfl) (fun _ _ _ _ h => nomatch h.1) (by rfl) ?_
    refine ⟨.pointer (some ⟨g2, 0, none⟩), fun w' => exec_move (.tmp 2) rfl _ rfl, ?_⟩
    simp only [Act.put, List.setIfInBounds_toArray, List.set_cons_zero, List.set_cons_succ]
    refine takeAE (i := 2) (oi := { dst := some 32, op := Op.nilCheck (Operand.tmp 31), type := 0, pos := "extended.go:53", after := #[{ on := 1, ground := Ground.data }], guard := none }) rfl (by kernel_rfl) (by kernel_rfl) (by kernel_rfl) (fun _ _ _ _ h => nomatch h.1) (by rfl) ?_
    refine ⟨.pointer (some ⟨g2, 0, none⟩), fun w' => exec_nil (.tmp 31) rfl _ rfl, ?_⟩
    simp only [Act.put, List.setIfInBounds_toArray, List.set_cons_zero, List.set_cons_succ]
    refine takeT (i := 3) (oi := { dst := some 33, op := Op.load 23 (Operand.tmp 32), type := 23, pos := "extended.go:53", after := #[{ on := 2, ground := Ground.data }], guard := none }) (vN ox) rfl (by kernel_rfl) (by kernel_rfl) (by kernel_rfl) (by kernel_rfl) (by kernel_rfl) (fun _ _ _ h => nomatch h.1) (by rfl) (fun w' hk => exec_loadF (.tmp 32) rfl (g2) 0 0 rfl [ox] ox rfl (RO_9.out.below hk HLT9_2.out) rfl) ?_
    simp only [Act.put, List.setIfInBounds_toArray, List.set_cons_zero, List.set_cons_succ]
    refine takeAE (i := 4) (oi := { dst := some 34, op := Op.move (Operand.tmp 4), type := 62, pos := "extended.go:53", after := #[], guard := none }) rfl (by kernel_rfl) (by kernel_rfl) (by kernel_rfl) (fun _ _ _ _ h => nomatch h.1) (by rfl) ?_
    refine ⟨.pointer (some ⟨g4, 0, none⟩), fun w' => exec_move (.tmp 4) rfl _ rfl, ?_⟩
    simp only [Act.put, List.setIfInBounds_toArray, List.set_cons_zero, List.set_cons_succ]
    refine takeAE (i := 5) (oi := { dst := some 35, op := Op.nilCheck (Operand.tmp 34), type := 0, pos := "extended.go:53", after := #[{ on := 4, ground := Ground.data }], guard := none }) rfl (by kernel_rfl) (by kernel_rfl) (by kernel_rfl) (fun _ _ _ _ h => nomatch h.1) (by rfl) ?_
    refine ⟨.pointer (some ⟨g4, 0, none⟩), fun w' => exec_nil (.tmp 34) rfl _ rfl, ?_⟩
    simp only [Act.put, List.setIfInBounds_toArray, List.set_cons_zero, List.set_cons_succ]
    refine takeT (i := 6) (oi := { dst := some 36, op := Op.load 23 (Operand.tmp 35), type := 23, pos := "extended.go:53", after := #[{ on := 5, ground := Ground.data }], guard := none }) (vN oy) rfl (by kernel_rfl) (by kernel_rfl) (by kernel_rfl) (by kernel_rfl) (by kernel_rfl) (fun _ _ _ h => nomatch h.1) (by rfl) (fun w' hk => exec_loadF (.tmp 35) rfl (g4) 0 0 rfl [oy] oy rfl (RP_9.out.below hk HLT9_4.out) rfl) ?_
    simp only [Act.put, List.setIfInBounds_toArray, List.set_cons_zero, List.set_cons_succ]
    refine callW (i := 7) (oi := { dst := some 37, op := Op.call { callee := Callee.value (Operand.func 25), args := #[Operand.tmp 33, Operand.tmp 36], argTypes := #[23, 23] }, type := 23, pos := "extended.go:53", after := #[{ on := 3, ground := Ground.data }, { on := 6, ground := Ground.data }], guard := none }) rfl (by kernel_rfl) (by rfl) (exec_callL 25 [.tmp 33, .tmp 36] #[23, 23] rfl [vN ox, vN oy] rfl (CG25 _)) ((H3.out D9).mono ?_)
    rintro e10 W10 ⟨rfl, hb10⟩
    refine ⟨_, rfl, fun _ => hb10.mono HL_9.out, ?_⟩
    have RG_10 := Lib.hid (RG_9.out.keep hb10)
    have RX_10 := Lib.hid (RX_9.out.keep hb10)
    have RO_10 := Lib.hid (RO_9.out.keep hb10)
    have RY_10 := Lib.hid (RY_9.out.keep hb10)
    have RP_10 := Lib.hid (RP_9.out.keep hb10)
    have HF_10 : Hid (Keeps (· = g) w W10) := Lib.hid (HF_9.out.call hb10)
    have HL_10 : Hid (v8.heap.size ≤ W10.heap.size) := Lib.hid (Nat.le_trans HL_9.out hb10.size)
    clear hb10 HL_9 RG_9 RX_9 RO_9 RY_9 RP_9 HF_9
    simp only [Act.put, List.setIfInBounds_toArray, List.set_cons_zero, List.set_cons_succ]
    refine takeAE (i := 8) (oi := { dst := some 38, op := Op.nilCheck (Operand.tmp 30), type := 0, pos := "extended.go:53", after := #[{ on := 0, ground := Ground.data }, { on := 0, ground := Ground.phase }, { on := 1, ground := Ground.phase }, { on := 2, ground := Ground.phase }, { on := 3, ground := Ground.phase }, { on := 4, ground := Ground.phase }, { on := 5, ground := Ground.phase }, { on := 6, ground := Ground.phase }, { on := 7, ground := Ground.phase }], guard := none }) rfl (by kernel_rfl) (by kernel_rfl) (by kernel_rfl) (fun _ _ _ _ h => nomatch h.1) (by rfl) ?_
    refine ⟨.pointer (some ⟨g, 0, none⟩), fun w' => exec_nil (.tmp 30) rfl _ rfl, ?_⟩
    simp only [Act.put, List.setIfInBounds_toArray, List.set_cons_zero, List.set_cons_succ]
    refine takeAE (i := 9) (oi := { dst := some 39, op := Op.fieldAddr 76 (Operand.tmp 38) 2, type := 0, pos := "extended.go:53", after := #[{ on := 8, ground := Ground.data }, { on := 0, ground := Ground.phase }, { on := 1, ground := Ground.phase }, { on := 2, ground := Ground.phase }, { on := 3, ground := Ground.phase }, { on := 4, ground := Ground.phase }, { on := 5, ground := Ground.phase }, { on := 6, ground := Ground.phase }, { on := 7, ground := Ground.phase }], guard := none }) rfl (by kernel_rfl) (by kernel_rfl) (by kernel_rfl) (fun _ _ _ _ h => nomatch h.1) (by rfl) ?_
    refine ⟨.pointer (some ⟨g, 64, none⟩), fun w' => exec_field 76 (.tmp 38) 2 rfl _ 64 rfl (fld76_2 _), ?_⟩
    simp only [Act.put, List.setIfInBounds_toArray, List.set_cons_zero, List.set_cons_succ]
    refine storeW_F (i := 10) (oi := { dst := none, op := Op.store 23 (Operand.tmp 39) (Operand.tmp 37), type := 0, pos := "extended.go:53", after := #[{ on := 9, ground := Ground.data }, { on := 7, ground := Ground.data }, { on := 7, ground := Ground.chain }, { on := 0, ground := Ground.phase }, { on := 1, ground := Ground.phase }, { on := 2, ground := Ground.phase }, { on := 3, ground := Ground.phase }, { on := 4, ground := Ground.phase }, { on := 5, ground := Ground.phase }, { on := 6, ground := Ground.phase }, { on := 7, ground := Ground.phase }], guard := none }) rfl (by kernel_rfl) (by rfl) (.tmp 39) (.tmp 37) rfl (g) 2 64 rfl [X, Y, r2, r3] Z rfl rfl RG_10.out (show 2 < 4 by omega) rfl ?_
    intro W11 hr11 hg11 hz11
    simp only [Act.put, List.setIfInBounds_toArray, List.set_cons_zero, List.set_cons_succ]
    have RG_11 : Hid (RAt W11 g [X, Y, Z, r3]) := Lib.hid hr11
    have RX_11 := Lib.hid (RX_10.out.grown hg11 (by have := HN1.out; simp; omega))
    have RO_11 := Lib.hid (RO_10.out.grown hg11 (by have := HN2.out; simp; omega))
    have RY_11 := Lib.hid (RY_10.out.grown hg11 (by have := HN3.out; simp; omega))
    have RP_11 := Lib.hid (RP_10.out.grown hg11 (by have := HN4.out; simp; omega))
    have HF_11 : Hid (Keeps (· = g) w W11) := Lib.hid (HF_10.out.ownrow hg11)
    have HL_11 : Hid (v8.heap.size ≤ W11.heap.size) := Lib.hid (Nat.le_trans HL_10.out hg11.size)
    clear hr11 hg11 hz11 HL_10 RG_10 RX_10 RO_10 RY_10 RP_10 HF_10
    refine doneW (by kernel_rfl) ⟨rfl, ?_⟩ _
    exact ⟨RG_11.out, RX_11.out, RO_11.out, RY_11.out, RP_11.out, HF_11.out, rfl⟩
  rintro a' v12 ⟨h0, h1, h2, h3, h4, hF, rfl⟩
  have RG_12 := Lib.hid h0
  have RX_12 := Lib.hid h1
  have RO_12 := Lib.hid h2
  have RY_12 := Lib.hid h3
  have RP_12 := Lib.hid h4
  have HF_12 := Lib.hid hF
  clear h0 h1 h2 h3 h4 hF HLT9_0 HLT9_1 HLT9_2 HLT9_3 HLT9_4 HLO9 RG_8 RX_8 RO_8 RY_8 RP_8 HF_8
  go_wp2_with fail
  have HLT13_0 : Hid (g < v12.heap.size) := Lib.hid RG_12.out.lt
  have HLT13_1 : Hid (g1 < v12.heap.size) := Lib.hid RX_12.out.lt
  have HLT13_2 : Hid (g2 < v12.heap.size) := Lib.hid RO_12.out.lt
  have HLT13_3 : Hid (g3 < v12.heap.size) := Lib.hid RY_12.out.lt
  have HLT13_4 : Hid (g4 < v12.heap.size) := Lib.hid RP_12.out.lt
  have HLO13 : Hid (w.heap.size ≤ v12.heap.size) := Lib.hid HF_12.out.size
  refine region_split (fun a' W => RAt W g [X, Y, Z, T] ∧ RAt W g1 [x] ∧ RAt W g2 [ox] ∧ RAt W g3 [y] ∧ RAt W g4 [oy] ∧ Keeps (· = g) w W ∧ a' = ⟨#[.pointer (some ⟨g, 0, none⟩), .pointer (some ⟨g1, 0, none⟩), .pointer (some ⟨g2, 0, none⟩), .pointer (some ⟨g3, 0, none⟩), .pointer (some ⟨g4, 0, none⟩), undef, undef, undef, undef, undef, .pointer (some ⟨g, 0, none⟩), .pointer (some ⟨g1, 0, none⟩), .pointer (some ⟨g1, 0, none⟩), vN x, .pointer (some ⟨g4, 0, none⟩), .pointer (some ⟨g4, 0, none⟩), vN oy, vN X, .pointer (some ⟨g, 0, none⟩), .pointer (some ⟨g, 0, none⟩), .pointer (some ⟨g, 0, none⟩), .pointer (some ⟨g3, 0, none⟩), .pointer (some ⟨g3, 0, none⟩), vN y, .pointer (some ⟨g2, 0, none⟩), .pointer (some ⟨g2, 0, none⟩), vN ox, vN Y, .pointer (some ⟨g, 0, none⟩), .pointer (some ⟨g, 32, none⟩), .pointer (some ⟨g, 0, none⟩), .pointer (some ⟨g2, 0, none⟩), .pointer (some ⟨g2, 0, none⟩), vN ox, .pointer (some ⟨g4, 0, none⟩), .pointer (some ⟨g4, 0, none⟩), vN oy, vN Z, .pointer (some ⟨g, 0, none⟩), .pointer (some ⟨g, 64, none⟩), .pointer (some ⟨g, 0, none⟩), .pointer (some ⟨g1, 0, none⟩), .pointer (some ⟨g1, 0, none⟩), vN x, .pointer (some ⟨g3, 0, none⟩), .pointer (some ⟨g3, 0, none⟩), vN y, vN T, .pointer (some ⟨g, 0, none⟩), .pointer (some ⟨g, 96, none⟩)], []⟩) ?_ ?_
  · refine startW (fun j => j == 10) (v12.heap.size) (by kernel_rfl) ?_
    obtain ⟨D13, hD13⟩ : ∃ D, D = v12.drew := ⟨_, rfl⟩
    rw [← hD13]
    have HL_13 : Hid (v12.heap.size ≤ D13.heap.size) := Lib.hid (by rw [hD13]; exact Nat.le_refl _)
    have RG_13 : Hid (RAt D13 g [X, Y, Z, r3]) := Lib.hid (by rw [hD13]; exact RG_12.out)
    have RX_13 : Hid (RAt D13 g1 [x]) := Lib.hid (by rw [hD13]; exact RX_12.out)
    have RO_13 : Hid (RAt D13 g2 [ox]) := Lib.hid (by rw [hD13]; exact RO_12.out)
    have RY_13 : Hid (RAt D13 g3 [y]) := Lib.hid (by rw [hD13]; exact RY_12.out)
    have RP_13 : Hid (RAt D13 g4 [oy]) := Lib.hid (by rw [hD13]; exact RP_12.out)
    have HF_13 : Hid (Keeps (· = g) w D13) := Lib.hid (by rw [hD13]; exact drew_rel HF_12.out)
    clear hD13 RG_12 RX_12 RO_12 RY_12 RP_12 HF_12
    refine takeAE (i := 0) (oi := { dst := some 40, op := Op.move (Operand.tmp 0), type := 80, pos := "extended.go:54", after := #[], guard := none }) rfl (by kernel_rfl) (by kernel_rfl) (by kernel_rfl) (fun _ _ _ _ h => nomatch h.1) (by rfl) ?_
    refine ⟨.pointer (some ⟨g, 0, none⟩), fun w' => exec_move (.tmp 0) rfl _ rfl, ?_⟩
    simp only [Act.put, List.setIfInBounds_toArray, List.set_cons_zero, List.set_cons_succ]
    refine takeAE (i := 1) (oi := { dst := some 41, op := Op.move (Operand.tmp 1), type := 62, pos := "extended.go:54", after := #[], guard := none }) rfl (by kernel_rfl) (by kernel_rfl) (by kernel_rfl) (fun _ _ _ _ h => nomatch h.1) (by rfl) ?_
    refine ⟨.pointer (some ⟨g1, 0, none⟩), fun w' => exec_move (.tmp 1) rfl _ rfl, ?_⟩
    simp only [Act.put, List.setIfInBounds_toArray, List.set_cons_zero, List.set_cons_succ]
    refine takeAE (i := 2) (oi := { dst := some 42, op := Op.nilCheck (Operand.tmp 41), type := 0, pos := "extended.go:54", after := #[{ on := 1, ground := Ground.data }], guard := none }) rfl (by kernel_rfl) (by kernel_rfl) (by kernel_rfl) (fun _ _ _ _ h => nomatch h.1) (by rfl) ?_
    refine ⟨.pointer (some ⟨g1, 0, none⟩), fun w' => exec_nil (.tmp 41) rfl _ rfl, ?_⟩
    simp only [Act.put, List.setIfInBounds_toArray, List.set_cons_zero, List.set_cons_succ]
    refine takeT (i := 3) (oi := { dst := some 43, op := Op.load 23 (Operand.tmp 42), type := 23, pos := "extended.go:54", after := #[{ on := 2, ground := Ground.data }], guard := none }) (vN x) rfl (by kernel_rfl) (by kernel_rfl) (by kernel_rfl) (by kernel_rfl) (by kernel_rfl) (fun _ _ _ h => nomatch h.1) (by rfl) (fun w' hk => exec_loadF (.tmp 42) rfl (g1) 0 0 rfl [x] x rfl (RX_13.out.below hk HLT13_1.out) rfl) ?_
    simp only [Act.put, List.setIfInBounds_toArray, List.set_cons_zero, List.set_cons_succ]
    refine takeAE (i := 4) (oi := { dst := some 44, op := Op.move (Operand.tmp 3), type := 62, pos := "extended.go:54", after := #[], guard := none }) rfl (by kernel_rfl) (by kernel_rfl) (by kernel_rfl) (fun _ _ _ _ h => nomatch h.1) (by rfl) ?_
    refine ⟨.pointer (some ⟨g3, 0, none⟩), fun w' => exec_move (.tmp 3) rfl _ rfl, ?_⟩
    simp only [Act.put, List.setIfInBounds_toArray, List.set_cons_zero, List.set_cons_succ]
    refine takeAE (i := 5) (oi := { dst := some 45, op := Op.nilCheck (Operand.tmp 44), type := 0, pos := "extended.go:54", after := #[{ on := 4, ground := Ground.data }], guard := none }) rfl (by kernel_rfl) (by kernel_rfl) (by kernel_rfl) (fun _ _ _ _ h => nomatch h.1) (by rfl) ?_
    refine ⟨.pointer (some ⟨g3, 0, none⟩), fun w' => exec_nil (.tmp 44) rfl _ rfl, ?_⟩
    simp only [Act.put, List.setIfInBounds_toArray, List.set_cons_zero, List.set_cons_succ]
    refine takeT (i := 6) (oi := { dst := some 46, op := Op.load 23 (Operand.tmp 45), type := 23, pos := "extended.go:54", after := #[{ on := 5, ground := Ground.data }], guard := none }) (vN y) rfl (by kernel_rfl) (by kernel_rfl) (by kernel_rfl) (by kernel_rfl) (by kernel_rfl) (fun _ _ _ h => nomatch h.1) (by rfl) (fun w' hk => exec_loadF (.tmp 45) rfl (g3) 0 0 rfl [y] y rfl (RY_13.out.below hk HLT13_3.out) rfl) ?_
    simp only [Act.put, List.setIfInBounds_toArray, List.set_cons_zero, List.set_cons_succ]
    refine callW (i := 7) (oi := { dst := some 47, op := Op.call { callee := Callee.value (Operand.func 25), args := #[Operand.tmp 43, Operand.tmp 46], argTypes := #[23, 23] }, type := 23, pos := "extended.go:54", after := #[{ on := 3, ground := Ground.data }, { on := 6, ground := Ground.data }], guard := none }) rfl (by kernel_rfl) (by rfl) (exec_callL 25 [.tmp 43, .tmp 46] #[23, 23] rfl [vN x, vN y] rfl (CG25 _)) ((H4.out D13).mono ?_)
    rintro e14 W14 ⟨rfl, hb14⟩
    refine ⟨_, rfl, fun _ => hb14.mono HL_13.out, ?_⟩
    have RG_14 := Lib.hid (RG_13.out.keep hb14)
    have RX_14 := Lib.hid (RX_13.out.keep hb14)
    have RO_14 := Lib.hid (RO_13.out.keep hb14)
    have RY_14 := Lib.hid (RY_13.out.keep hb14)
    have RP_14 := Lib.hid (RP_13.out.keep hb14)
    have HF_14 : Hid (Keeps (· = g) w W14) := Lib.hid (HF_13.out.call hb14)
    have HL_14 : Hid (v12.heap.size ≤ W14.heap.size) := Lib.hid (Nat.le_trans HL_13.out hb14.size)
    clear hb14 HL_13 RG_13 RX_13 RO_13 RY_13 RP_13 HF_13
    simp only [Act.put, List.setIfInBounds_toArray, List.set_cons_zero, List.set_cons_succ]
    refine takeAE (i := 8) (oi := { dst := some 48, op := Op.nilCheck (Operand.tmp 40), type := 0, pos := "extended.go:54", after := #[{ on := 0, ground := Ground.data }, { on := 0, ground := Ground.phase }, { on := 1, ground := Ground.phase }, { on := 2, ground := Ground.phase }, { on := 3, ground := Ground.phase }, { on := 4, ground := Ground.phase }, { on := 5, ground := Ground.phase }, { on := 6, ground := Ground.phase }, { on := 7, ground := Ground.phase }], guard := none }) rfl (by kernel_rfl) (by kernel_rfl) (by kernel_rfl) (fun _ _ _ _ h => nomatch h.1) (by rfl) ?_
    refine ⟨.pointer (some ⟨g, 0, none⟩), fun w' => exec_nil (.tmp 40) rfl _ rfl, ?_⟩
    simp only [Act.put, List.setIfInBounds_toArray, List.set_cons_zero, List.set_cons_succ]
    refine takeAE (i := 9) (oi := { dst := some 49, op := Op.fieldAddr 76 (Operand.tmp 48) 3, type := 0, pos := "extended.go:54", after := #[{ on := 8, ground := Ground.data }, { on := 0, ground := Ground.phase }, { on := 1, ground := Ground.phase }, { on := 2, ground := Ground.phase }, { on := 3, ground := Ground.phase }, { on := 4, ground := Ground.phase }, { on := 5, ground := Ground.phase }, { on := 6, ground := Ground.phase }, { on := 7, ground := Ground.phase }], guard := none }) rfl (by kernel_rfl) (by kernel_rfl) (by kernel_rfl) (fun _ _ _ _ h => nomatch h.1) (by rfl) ?_
    refine ⟨.pointer (some ⟨g, 96, none⟩), fun w' => exec_field 76 (.tmp 48) 3 rfl _ 96 rfl (fld76_3 _), ?_⟩
    simp only [Act.put, List.setIfInBounds_toArray, List.set_cons_zero, List.set_cons_succ]
    refine storeW_F (i := 10) (oi := { dst := none, op := Op.store 23 (Operand.tmp 49) (Operand.tmp 47), type := 0, pos := "extended.go:54", after := #[{ on := 9, ground := Ground.data }, { on := 7, ground := Ground.data }, { on := 7, ground := Ground.chain }, { on := 0, ground := Ground.phase }, { on := 1, ground := Ground.phase }, { on := 2, ground := Ground.phase }, { on := 3, ground := Ground.phase }, { on := 4, ground := Ground.phase }, { on := 5, ground := Ground.phase }, { on := 6, ground := Ground.phase }, { on := 7, ground := Ground.phase }], guard := none }) rfl (by kernel_rfl) (by rfl) (.tmp 49) (.tmp 47) rfl (g) 3 96 rfl [X, Y, Z, r3] T rfl rfl RG_14.out (show 3 < 4 by omega) rfl ?_
    intro W15 hr15 hg15 hz15
    simp only [Act.put, List.setIfInBounds_toArray, List.set_cons_zero, List.set_cons_succ]
    have RG_15 : Hid (RAt W15 g [X, Y, Z, T]) := Lib.hid hr15
    have RX_15 := Lib.hid (RX_14.out.grown hg15 (by have := HN1.out; simp; omega))
    have RO_15 := Lib.hid (RO_14.out.grown hg15 (by have := HN2.out; simp; omega))
    have RY_15 := Lib.hid (RY_14.out.grown hg15 (by have := HN3.out; simp; omega))
    have RP_15 := Lib.hid (RP_14.out.grown hg15 (by have := HN4.out; simp; omega))
    have HF_15 : Hid (Keeps (· = g) w W15) := Lib.hid (HF_14.out.ownrow hg15)
    have HL_15 : Hid (v12.heap.size ≤ W15.heap.size) := Lib.hid (Nat.le_trans HL_14.out hg15.size)
    clear hr15 hg15 hz15 HL_14 RG_14 RX_14 RO_14 RY_14 RP_14 HF_14
    refine doneW (by kernel_rfl) ⟨rfl, ?_⟩ _
    exact ⟨RG_15.out, RX_15.out, RO_15.out, RY_15.out, RP_15.out, HF_15.out, rfl⟩
  rintro a' v16 ⟨h0, h1, h2, h3, h4, hF, rfl⟩
  have RG_16 := Lib.hid h0
  have RX_16 := Lib.hid h1
  have RO_16 := Lib.hid h2
  have RY_16 := Lib.hid h3
  have RP_16 := Lib.hid h4
  have HF_16 := Lib.hid hF
  clear h0 h1 h2 h3 h4 hF HLT13_0 HLT13_1 HLT13_2 HLT13_3 HLT13_4 HLO13 RG_12 RX_12 RO_12 RY_12 RP_12 HF_12
  go_wp2_with fail
  refine bodyPost_end (results_none rfl _ _ _) rfl ?_
  exact ⟨rfl, RG_16.out, HF_16.out⟩

set_option maxHeartbeats 4000000 in
theorem eread_core (g g1 r0 r1 r2 r3 x y t : Nat) (w : World)
    (H1 : Hid (∀ w, Calls Try.prog 17 #[.int .u64 1] w (Gives (vN 1) w))) (H2 : Hid (∀ w, Calls Try.prog 25 #[vN x, vN y] w (Gives (vN t) w)))
    (RG_0 : Hid (RAt w g [r0, r1, r2, r3])) (RX_0 : Hid (RAt w g1 [x, y])) (HN1 : Hid (g ≠ g1)) :
    Calls Try.prog 80 #[.pointer (some ⟨g, 0, none⟩), .pointer (some ⟨g1, 0, none⟩)] w (SetsR g [x, y, 1, t] w) := by
  have HF_0 : Hid (Keeps (· = g) w w) := Lib.hid (Keeps.refl _ _)
  go_enter Try.func80, Try.ntmps80
  go_wp2_with fail
  have HLT17_0 : Hid (g < w.heap.size) := Lib.hid RG_0.out.lt
  have HLT17_1 : Hid (g1 < w.heap.size) := Lib.hid RX_0.out.lt
  have HLO17 : Hid (w.heap.size ≤ w.heap.size) := Lib.hid HF_0.out.size
  refine region_split (fun a' W => RAt W g [x, y, 1, r3] ∧ RAt W g1 [x, y] ∧ Keeps (· = g) w W ∧ a' = ⟨#[.pointer (some ⟨g, 0, none⟩), .pointer (some ⟨g1, 0, none⟩), undef, undef, .pointer (some ⟨g, 0, none⟩), .pointer (some ⟨g, 0, none⟩), .pointer (some ⟨g, 0, none⟩), .pointer (some ⟨g1, 0, none⟩), .pointer (some ⟨g1, 0, none⟩), .pointer (some ⟨g1, 0, none⟩), vN x, .pointer (some ⟨g1, 0, none⟩), .pointer (some ⟨g1, 0, none⟩), .pointer (some ⟨g1, 32, none⟩), vN y, vN 1, .pointer (some ⟨g, 0, none⟩), .pointer (some ⟨g, 0, none⟩), .pointer (some ⟨g, 0, none⟩), .pointer (some ⟨g, 32, none⟩), .pointer (some ⟨g, 0, none⟩), .pointer (some ⟨g, 64, none⟩), undef, undef, undef, undef, undef, undef, undef, undef, undef, undef, undef, undef], []⟩) ?_ ?_
  · refine startW (fun j => j == 14 || j == 17 || j == 20) (w.heap.size) (by kernel_rfl) ?_
    obtain ⟨D17, hD17⟩ : ∃ D, D = w.drew := ⟨_, rfl⟩
    rw [← hD17]
    have HL_17 : Hid (w.heap.size ≤ D17.heap.size) := Lib.hid (by rw [hD17]; exact Nat.le_refl _)
    have RG_17 : Hid (RAt D17 g [r0, r1, r2, r3]) := Lib.hid (by rw [hD17]; exact RG_0.out)
    have RX_17 : Hid (RAt D17 g1 [x, y]) := Lib.hid (by rw [hD17]; exact RX_0.out)
    have HF_17 : Hid (Keeps (· = g) w D17) := Lib.hid (by rw [hD17]; exact drew_rel HF_0.out)
    clear hD17 RG_0 RX_0 HF_0
    refine takeAE (i := 0) (oi := { dst := some 4, op := Op.move (Operand.tmp 0), type := 80, pos := "extended.go:16", after := #[], guard := none }) rfl (by kernel_rfl) (by kernel_rfl) (by kernel_rfl) (fun _ _ _ _ h => nomatch h.1) (by rfl) ?_
    refine ⟨.pointer (some ⟨g, 0, none⟩), fun w' => exec_move (.tmp 0) rfl _ rfl, ?_⟩
    simp only [Act.put, List.setIfInBounds_toArray, List.set_cons_zero, List.set_cons_succ]
    refine takeAE (i := 1) (oi := { dst := some 5, op := Op.move (Operand.tmp 0), type := 80, pos := "extended.go:16", after := #[{ on := 14, ground := Ground.gcOnly Departure.lateStores }], guard := none }) rfl (by kernel_rfl) (by kernel_rfl) (by kernel_rfl) (fun _ _ _ _ h => nomatch h.1) (by rfl) ?_
    refine ⟨.pointer (some ⟨g, 0, none⟩), fun w' => exec_move (.tmp 0) rfl _ rfl, ?_⟩
    simp only [Act.put, List.setIfInBounds_toArray, List.set_cons_zero, List.set_cons_succ]
    refine takeAE (i := 2) (oi := { dst := some 6, op := Op.move (Operand.tmp 0), type := 80, pos := "extended.go:16", after := #[{ on := 17, ground := Ground.gcOnly Departure.lateStores }], guard := none }) rfl (by kernel_rfl) (by kernel_rfl) (by kernel_rfl) (fun _ _ _ _ h => nomatch h.1) (by rfl) ?_
    refine ⟨.pointer (some ⟨g, 0, none⟩), fun w' => exec_move (.tmp 0) rfl _ rfl, ?_⟩
    simp only [Act.put, List.setIfInBounds_toArray, List.set_cons_zero, List.set_cons_succ]
    refine takeAE (i := 3) (oi := { dst := some 7, op := Op.move (Operand.tmp 1), type := 78, pos := "extended.go:16", after := #[], guard := none }) rfl (by kernel_rfl) (by kernel_rfl) (by kernel_rfl) (fun _ _ _ _ h => nomatch h.1) (by rfl) ?_
    refine ⟨.pointer (some ⟨g1, 0, none⟩), fun w' => exec_move (.tmp 1) rfl _ rfl, ?_⟩
    simp only [Act.put, List.setIfInBounds_toArray, List.set_cons_zero, List.set_cons_succ]
    refine takeAE (i := 4) (oi := { dst := some 8, op := Op.nilCheck (Operand.tmp 7), type := 0, pos := "extended.go:16", after := #[{ on := 3, ground := Ground.data }], guard := none }) rfl (by kernel_rfl) (by kernel_rfl) (by kernel_rfl) (fun _ _ _ _ h => nomatch h.1) (by rfl) ?_
    refine ⟨.pointer (some ⟨g1, 0, none⟩), fun w' => exec_nil (.tmp 7) rfl _ rfl, ?_⟩
    simp only [Act.put, List.setIfInBounds_toArray, List.set_cons_zero, List.set_cons_succ]
    refine takeAE (i := 5) (oi := { dst := some 9, op := Op.fieldAddr 35 (Operand.tmp 8) 0, type := 0, pos := "extended.go:16", after := #[{ on := 4, ground := Ground.data }], guard := none }) rfl (by kernel_rfl) (by kernel_rfl) (by kernel_rfl) (fun _ _ _ _ h => nomatch h.1) (by rfl) ?_
    refine ⟨.pointer (some ⟨g1, 0, none⟩), fun w' => exec_field 35 (.tmp 8) 0 rfl _ 0 rfl (fld35_0 _), ?_⟩
    simp only [Act.put, List.setIfInBounds_toArray, List.set_cons_zero, List.set_cons_succ]
    refine takeT (i := 6) (oi := { dst := some 10, op := Op.load 23 (Operand.tmp 9), type := 23, pos := "extended.go:16", after := #[{ on := 5, ground := Ground.data }], guard := none }) (vN x) rfl (by kernel_rfl) (by kernel_rfl) (by kernel_rfl) (by kernel_rfl) (by kernel_rfl) (fun _ _ _ h => nomatch h.1) (by rfl) (fun w' hk => exec_loadF (.tmp 9) rfl (g1) 0 0 rfl [x, y] x rfl (RX_17.out.below hk HLT17_1.out) rfl) ?_
    simp only [Act.put, List.setIfInBounds_toArray, List.set_cons_zero, List.set_cons_succ]
    refine takeAE (i := 7) (oi := { dst := some 11, op := Op.move (Operand.tmp 1), type := 78, pos := "extended.go:16", after := #[], guard := none }) rfl (by kernel_rfl) (by kernel_rfl) (by kernel_rfl) (fun _ _ _ _ h => nomatch h.1) (by rfl) ?_
    refine ⟨.pointer (some ⟨g1, 0, none⟩), fun w' => exec_move (.tmp 1) rfl _ rfl, ?_⟩
    simp only [Act.put, List.setIfInBounds_toArray, List.set_cons_zero, List.set_cons_succ]
    refine takeAE (i := 8) (oi := { dst := some 12, op := Op.nilCheck (Operand.tmp 11), type := 0, pos := "extended.go:16", after := #[{ on := 7, ground := Ground.data }], guard := none }) rfl (by kernel_rfl) (by kernel_rfl) (by kernel_rfl) (fun _ _ _ _ h => nomatch h.1) (by rfl) ?_
    refine ⟨.pointer (some ⟨g1, 0, none⟩), fun w' => exec_nil (.tmp 11) rfl _ rfl, ?_⟩
    simp only [Act.put, List.setIfInBounds_toArray, List.set_cons_zero, List.set_cons_succ]
    refine takeAE (i := 9) (oi := { dst := some 13, op := Op.fieldAddr 35 (Operand.tmp 12) 1, type := 0, pos := "extended.go:16", after := #[{ on := 8, ground := Ground.data }], guard := none }) rfl (by kernel_rfl) (by kernel_rfl) (by kernel_rfl) (fun _ _ _ _ h => nomatch h.1) (by rfl) ?_
    refine ⟨.pointer (some ⟨g1, 32, none⟩), fun w' => exec_field 35 (.tmp 12) 1 rfl _ 32 rfl (fld35_1 _), ?_⟩
    simp only [Act.put, List.setIfInBounds_toArray, List.set_cons_zero, List.set_cons_succ]
    refine takeT (i := 10) (oi := { dst := some 14, op := Op.load 23 (Operand.tmp 13), type := 23, pos := "extended.go:16", after := #[{ on := 9, ground := Ground.data }], guard := none }) (vN y) rfl (by kernel_rfl) (by kernel_rfl) (by kernel_rfl) (by kernel_rfl) (by kernel_rfl) (fun _ _ _ h => nomatch h.1) (by rfl) (fun w' hk => exec_loadF (.tmp 13) rfl (g1) 1 32 rfl [x, y] y rfl (RX_17.out.below hk HLT17_1.out) rfl) ?_
    simp only [Act.put, List.setIfInBounds_toArray, List.set_cons_zero, List.set_cons_succ]
    refine callW (i := 11) (oi := { dst := some 15, op := Op.call { callee := Callee.value (Operand.func 17), args := #[Operand.const (Value.int IntKind.u64 1)], argTypes := #[24] }, type := 23, pos := "extended.go:16", after := #[], guard := none }) rfl (by kernel_rfl) (by rfl) (exec_callL 17 [.const (.int .u64 1)] #[24] rfl [.int .u64 1] rfl (CG17 _)) ((H1.out D17).mono ?_)
    rintro e18 W18 ⟨rfl, hb18⟩
    refine ⟨_, rfl, fun _ => hb18.mono HL_17.out, ?_⟩
    have RG_18 := Lib.hid (RG_17.out.keep hb18)
    have RX_18 := Lib.hid (RX_17.out.keep hb18)
    have HF_18 : Hid (Keeps (· = g) w W18) := Lib.hid (HF_17.out.call hb18)
    have HL_18 : Hid (w.heap.size ≤ W18.heap.size) := Lib.hid (Nat.le_trans HL_17.out hb18.size)
    clear hb18 HL_17 RG_17 RX_17 HF_17
    simp only [Act.put, List.setIfInBounds_toArray, List.set_cons_zero, List.set_cons_succ]
    refine takeAE (i := 12) (oi := { dst := some 16, op := Op.nilCheck (Operand.tmp 4), type := 0, pos := "extended.go:16", after := #[{ on := 0, ground := Ground.data }, { on := 0, ground := Ground.phase }, { on := 1, ground := Ground.textOnly Departure.lateStores }, { on := 2, ground := Ground.textOnly Departure.lateStores }, { on := 3, ground := Ground.phase }, { on := 4, ground := Ground.phase }, { on := 5, ground := Ground.phase }, { on := 6, ground := Ground.phase }, { on := 7, ground := Ground.textOnly Departure.lateStores }, { on := 8, ground := Ground.textOnly Departure.lateStoresUnsure }, { on := 9, ground := Ground.textOnly Departure.lateStoresUnsure }, { on := 10, ground := Ground.phase }, { on := 11, ground := Ground.phase }], guard := none }) rfl (by kernel_rfl) (by kernel_rfl) (by kernel_rfl) (fun _ _ _ _ h => nomatch h.1) (by rfl) ?_
    refine ⟨.pointer (some ⟨g, 0, none⟩), fun w' => exec_nil (.tmp 4) rfl _ rfl, ?_⟩
    simp only [Act.put, List.setIfInBounds_toArray, List.set_cons_zero, List.set_cons_succ]
    refine takeAE (i := 13) (oi := { dst := some 17, op := Op.fieldAddr 76 (Operand.tmp 16) 0, type := 0, pos := "extended.go:16", after := #[{ on := 12, ground := Ground.data }, { on := 0, ground := Ground.phase }, { on := 1, ground := Ground.textOnly Departure.lateStores }, { on := 2, ground := Ground.textOnly Departure.lateStores }, { on := 3, ground := Ground.phase }, { on := 4, ground := Ground.phase }, { on := 5, ground := Ground.phase }, { on := 6, ground := Ground.phase }, { on := 7, ground := Ground.textOnly Departure.lateStores }, { on := 8, ground := Ground.textOnly Departure.lateStoresUnsure }, { on := 9, ground := Ground.textOnly Departure.lateStoresUnsure }, { on := 10, ground := Ground.phase }, { on := 11, ground := Ground.phase }], guard := none }) rfl (by kernel_rfl) (by kernel_rfl) (by kernel_rfl) (fun _ _ _ _ h => nomatch h.1) (by rfl) ?_
    refine ⟨.pointer (some ⟨g, 0, none⟩), fun w' => exec_field 76 (.tmp 16) 0 rfl _ 0 rfl (fld76_0 _), ?_⟩
    simp only [Act.put, List.setIfInBounds_toArray, List.set_cons_zero, List.set_cons_succ]
    refine storeW_F (i := 14) (oi := { dst := none, op := Op.store 23 (Operand.tmp 17) (Operand.tmp 10), type := 0, pos := "extended.go:16", after := #[{ on := 13, ground := Ground.data }, { on := 6, ground := Ground.data }, { on := 11, ground := Ground.chain }, { on := 0, ground := Ground.phase }, { on := 1, ground := Ground.textOnly Departure.lateStores }, { on := 2, ground := Ground.textOnly Departure.lateStores }, { on := 3, ground := Ground.phase }, { on := 4, ground := Ground.phase }, { on := 5, ground := Ground.phase }, { on := 6, ground := Ground.phase }, { on := 7, ground := Ground.textOnly Departure.lateStores }, { on := 8, ground := Ground.textOnly Departure.lateStoresUnsure }, { on := 9, ground := Ground.textOnly Departure.lateStoresUnsure }, { on := 10, ground := Ground.phase }, { on := 11, ground := Ground.phase }], guard := none }) rfl (by kernel_rfl) (by rfl) (.tmp 17) (.tmp 10) rfl (g) 0 0 rfl [r0, r1, r2, r3] x rfl rfl RG_18.out (show 0 < 4 by omega) rfl ?_
    intro W19 hr19 hg19 hz19
    simp only [Act.put, List.setIfInBounds_toArray, List.set_cons_zero, List.set_cons_succ]
    have RG_19 : Hid (RAt W19 g [x, r1, r2, r3]) := Lib.hid hr19
    have RX_19 := Lib.hid (RX_18.out.grown hg19 (by have := HN1.out; simp; omega))
    have HF_19 : Hid (Keeps (· = g) w W19) := Lib.hid (HF_18.out.ownrow hg19)
    have HL_19 : Hid (w.heap.size ≤ W19.heap.size) := Lib.hid (Nat.le_trans HL_18.out hg19.size)
    clear hr19 hg19 hz19 HL_18 RG_18 RX_18 HF_18
    refine takeAE (i := 15) (oi := { dst := some 18, op := Op.nilCheck (Operand.tmp 5), type := 0, pos := "extended.go:16", after := #[{ on := 1, ground := Ground.data }, { on := 0, ground := Ground.phase }, { on := 1, ground := Ground.phase }, { on := 2, ground := Ground.textOnly Departure.lateStores }, { on := 3, ground := Ground.phase }, { on := 4, ground := Ground.phase }, { on := 5, ground := Ground.phase }, { on := 6, ground := Ground.phase }, { on := 7, ground := Ground.phase }, { on := 8, ground := Ground.phase }, { on := 9, ground := Ground.phase }, { on := 10, ground := Ground.phase }, { on := 11, ground := Ground.phase }, { on := 12, ground := Ground.phase }, { on := 13, ground := Ground.phase }, { on := 14, ground := Ground.phase }], guard := none }) rfl (by kernel_rfl) (by kernel_rfl) (by kernel_rfl) (fun _ _ _ _ h => nomatch h.1) (by rfl) ?_
    refine ⟨.pointer (some ⟨g, 0, none⟩), fun w' => exec_nil (.tmp 5) rfl _ rfl, ?_⟩
    simp only [Act.put, List.setIfInBounds_toArray, List.set_cons_zero, List.set_cons_succ]
    refine takeAE (i := 16) (oi := { dst := some 19, op := Op.fieldAddr 76 (Operand.tmp 18) 1, type := 0, pos := "extended.go:16", after := #[{ on := 15, ground := Ground.data }, { on := 0, ground := Ground.phase }, { on := 1, ground := Ground.phase }, { on := 2, ground := Ground.textOnly Departure.lateStores }, { on := 3, ground := Ground.phase }, { on := 4, ground := Ground.phase }, { on := 5, ground := Ground.phase }, { on := 6, ground := Ground.phase }, { on := 7, ground := Ground.phase }, { on := 8, ground := Ground.phase }, { on := 9, ground := Ground.phase }, { on := 10, ground := Ground.phase }, { on := 11, ground := Ground.phase }, { on := 12, ground := Ground.phase }, { on := 13, ground := Ground.phase }, { on := 14, ground := Ground.phase }], guard := none }) rfl (by kernel_rfl) (by kernel_rfl) (by kernel_rfl) (fun _ _ _ _ h => nomatch h.1) (by rfl) ?_
    refine ⟨.pointer (some ⟨g, 32, none⟩), fun w' => exec_field 76 (.tmp 18) 1 rfl _ 32 rfl (fld76_1 _), ?_⟩
    simp only [Act.put, List.setIfInBounds_toArray, List.set_cons_zero, List.set_cons_succ]
    refine storeW_F (i := 17) (oi := { dst := none, op := Op.store 23 (Operand.tmp 19) (Operand.tmp 14), type := 0, pos := "extended.go:16", after := #[{ on := 16, ground := Ground.data }, { on := 10, ground := Ground.data }, { on := 14, ground := Ground.chain }, { on := 0, ground := Ground.phase }, { on := 1, ground := Ground.phase }, { on := 2, ground := Ground.textOnly Departure.lateStores }, { on := 3, ground := Ground.phase }, { on := 4, ground := Ground.phase }, { on := 5, ground := Ground.phase }, { on := 6, ground := Ground.phase }, { on := 7, ground := Ground.phase }, { on := 8, ground := Ground.phase }, { on := 9, ground := Ground.phase }, { on := 10, ground := Ground.phase }, { on := 11, ground := Ground.phase }, { on := 12, ground := Ground.phase }, { on := 13, ground := Ground.phase }, { on := 14, ground := Ground.phase }], guard := none }) rfl (by kernel_rfl) (by rfl) (.tmp 19) (.tmp 14) rfl (g) 1 32 rfl [x, r1, r2, r3] y rfl rfl RG_19.out (show 1 < 4 by omega) rfl ?_
    intro W20 hr20 hg20 hz20
    simp only [Act.put, List.setIfInBounds_toArray, List.set_cons_zero, List.set_cons_succ]
    have RG_20 : Hid (RAt W20 g [x, y, r2, r3]) := Lib.hid hr20
    have RX_20 := Lib.hid (RX_19.out.grown hg20 (by have := HN1.out; simp; omega))
    have HF_20 : Hid (Keeps (· = g) w W20) := Lib.hid (HF_19.out.ownrow hg20)
    have HL_20 : Hid (w.heap.size ≤ W20.heap.size) := Lib.hid (Nat.le_trans HL_19.out hg20.size)
    clear hr20 hg20 hz20 HL_19 RG_19 RX_19 HF_19
    refine takeAE (i := 18) (oi := { dst := some 20, op := Op.nilCheck (Operand.tmp 6), type := 0, pos := "extended.go:16", after := #[{ on := 2, ground := Ground.data }, { on := 0, ground := Ground.phase }, { on := 1, ground := Ground.phase }, { on := 2, ground := Ground.phase }, { on := 3, ground := Ground.phase }, { on := 4, ground := Ground.phase }, { on := 5, ground := Ground.phase }, { on := 6, ground := Ground.phase }, { on := 7, ground := Ground.phase }, { on := 8, ground := Ground.phase }, { on := 9, ground := Ground.phase }, { on := 10, ground := Ground.phase }, { on := 11, ground := Ground.phase }, { on := 12, ground := Ground.phase }, { on := 13, ground := Ground.phase }, { on := 14, ground := Ground.phase }, { on := 15, ground := Ground.phase }, { on := 16, ground := Ground.phase }, { on := 17, ground := Ground.phase }], guard := none }) rfl (by kernel_rfl) (by kernel_rfl) (by kernel_rfl) (fun _ _ _ _ h => nomatch h.1) (by rfl) ?_
    refine ⟨.pointer (some ⟨g, 0, none⟩), fun w' => exec_nil (.tmp 6) rfl _ rfl, ?_⟩
    simp only [Act.put, List.setIfInBounds_toArray, List.set_cons_zero, List.set_cons_succ]
    refine takeAE (i := 19) (oi := { dst := some 21, op := Op.fieldAddr 76 (Operand.tmp 20) 2, type := 0, pos := "extended.go:16", after := #[{ on := 18, ground := Ground.data }, { on := 0, ground := Ground.phase }, { on := 1, ground := Ground.phase }, { on := 2, ground := Ground.phase }, { on := 3, ground := Ground.phase }, { on := 4, ground := Ground.phase }, { on := 5, ground := Ground.phase }, { on := 6, ground := Ground.phase }, { on := 7, ground := Ground.phase }, { on := 8, ground := Ground.phase }, { on := 9, ground := Ground.phase }, { on := 10, ground := Ground.phase }, { on := 11, ground := Ground.phase }, { on := 12, ground := Ground.phase }, { on := 13, ground := Ground.phase }, { on := 14, ground := Ground.phase }, { on := 15, ground := Ground.phase }, { on := 16, ground := Ground.phase }, { on := 17, ground := Ground.phase }], guard := none }) rfl (by kernel_rfl) (by kernel_rfl) (by kernel_rfl) (fun _ _ _ _ h => nomatch h.1) (by rfl) ?_
    refine ⟨.pointer (some ⟨g, 64, none⟩), fun w' => exec_field 76 (.tmp 20) 2 rfl _ 64 rfl (fld76_2 _), ?_⟩
    simp only [Act.put, List.setIfInBounds_toArray, List.set_cons_zero, List.set_cons_succ]
    refine storeW_F (i := 20) (oi := { dst := none, op := Op.store 23 (Operand.tmp 21) (Operand.tmp 15), type := 0, pos := "extended.go:16", after := #[{ on := 19, ground := Ground.data }, { on := 11, ground := Ground.data }, { on := 17, ground := Ground.chain }, { on := 0, ground := Ground.phase }, { on := 1, ground := Ground.phase }, { on := 2, ground := Ground.phase }, { on := 3, ground := Ground.phase }, { on := 4, ground := Ground.phase }, { on := 5, ground := Ground.phase }, { on := 6, ground := Ground.phase }, { on := 7, ground := Ground.phase }, { on := 8, ground := Ground.phase }, { on := 9, ground := Ground.phase }, { on := 10, ground := Ground.phase }, { on := 11, ground := Ground.phase }, { on := 12, ground := Ground.phase }, { on := 13, ground := Ground.phase }, { on := 14, ground := Ground.phase }, { on := 15, ground := Ground.phase }, { on := 16, ground := Ground.phase }, { on := 17, ground := Ground.phase }], guard := none }) rfl (by kernel_rfl) (by rfl) (.tmp 21) (.tmp 15) rfl (g) 2 64 rfl [x, y, r2, r3] 1 rfl rfl RG_20.out (show 2 < 4 by omega) rfl ?_
    intro W21 hr21 hg21 hz21
    simp only [Act.put, List.setIfInBounds_toArray, List.set_cons_zero, List.set_cons_succ]
    have RG_21 : Hid (RAt W21 g [x, y, 1, r3]) := Lib.hid hr21
    have RX_21 := Lib.hid (RX_20.out.grown hg21 (by have := HN1.out; simp; omega))
    have HF_21 : Hid (Keeps (· = g) w W21) := Lib.hid (HF_20.out.ownrow hg21)
    have HL_21 : Hid (w.heap.size ≤ W21.heap.size) := Lib.hid (Nat.le_trans HL_20.out hg21.size)
    clear hr21 hg21 hz21 HL_20 RG_20 RX_20 HF_20
    refine doneW (by kernel_rfl) ⟨rfl, ?_⟩ _
    exact ⟨RG_21.out, RX_21.out, HF_21.out, rfl⟩
  rintro a' v22 ⟨h0, h1, hF, rfl⟩
  have RG_22 := Lib.hid h0
  have RX_22 := Lib.hid h1
  have HF_22 := Lib.hid hF
  clear h0 h1 hF HLT17_0 HLT17_1 HLO17 RG_0 RX_0 HF_0
  go_wp2_with fail
  have HLT23_0 : Hid (g < v22.heap.size) := Lib.hid RG_22.out.lt
  have HLT23_1 : Hid (g1 < v22.heap.size) := Lib.hid RX_22.out.lt
  have HLO23 : Hid (w.heap.size ≤ v22.heap.size) := Lib.hid HF_22.out.size
  refine region_split (fun a' W => RAt W g [x, y, 1, t] ∧ RAt W g1 [x, y] ∧ Keeps (· = g) w W ∧ a' = ⟨#[.pointer (some ⟨g, 0, none⟩), .pointer (some ⟨g1, 0, none⟩), undef, undef, .pointer (some ⟨g, 0, none⟩), .pointer (some ⟨g, 0, none⟩), .pointer (some ⟨g, 0, none⟩), .pointer (some ⟨g1, 0, none⟩), .pointer (some ⟨g1, 0, none⟩), .pointer (some ⟨g1, 0, none⟩), vN x, .pointer (some ⟨g1, 0, none⟩), .pointer (some ⟨g1, 0, none⟩), .pointer (some ⟨g1, 32, none⟩), vN y, vN 1, .pointer (some ⟨g, 0, none⟩), .pointer (some ⟨g, 0, none⟩), .pointer (some ⟨g, 0, none⟩), .pointer (some ⟨g, 32, none⟩), .pointer (some ⟨g, 0, none⟩), .pointer (some ⟨g, 64, none⟩), .pointer (some ⟨g, 0, none⟩), .pointer (some ⟨g1, 0, none⟩), .pointer (some ⟨g1, 0, none⟩), .pointer (some ⟨g1, 0, none⟩), vN x, .pointer (some ⟨g1, 0, none⟩), .pointer (some ⟨g1, 0, none⟩), .pointer (some ⟨g1, 32, none⟩), vN y, vN t, .pointer (some ⟨g, 0, none⟩), .pointer (some ⟨g, 96, none⟩)], []⟩) ?_ ?_
  · refine startW (fun j => j == 12) (v22.heap.size) (by kernel_rfl) ?_
    obtain ⟨D23, hD23⟩ : ∃ D, D = v22.drew := ⟨_, rfl⟩
    rw [← hD23]
    have HL_23 : Hid (v22.heap.size ≤ D23.heap.size) := Lib.hid (by rw [hD23]; exact Nat.le_refl _)
    have RG_23 : Hid (RAt D23 g [x, y, 1, r3]) := Lib.hid (by rw [hD23]; exact RG_22.out)
    have RX_23 : Hid (RAt D23 g1 [x, y]) := Lib.hid (by rw [hD23]; exact RX_22.out)
    have HF_23 : Hid (Keeps (· = g) w D23) := Lib.hid (by rw [hD23]; exact drew_rel HF_22.out)
    clear hD23 RG_22 RX_22 HF_22
    refine takeAE (i := 0) (oi := { dst := some 22, op := Op.move (Operand.tmp 0), type := 80, pos := "extended.go:17", after := #[], guard := none }) rfl (by kernel_rfl) (by kernel_rfl) (by kernel_rfl) (fun _ _ _ _ h => nomatch h.1) (by rfl) ?_
    refine ⟨.pointer (some ⟨g, 0, none⟩), fun w' => exec_move (.tmp 0) rfl _ rfl, ?_⟩
    simp only [Act.put, List.setIfInBounds_toArray, List.set_cons_zero, List.set_cons_succ]
    refine takeAE (i := 1) (oi := { dst := some 23, op := Op.move (Operand.tmp 1), type := 78, pos := "extended.go:17", after := #[], guard := none }) rfl (by kernel_rfl) (by kernel_rfl) (by kernel_rfl) (fun _ _ _ _ h => nomatch h.1) (by rfl) ?_
    refine ⟨.pointer (some ⟨g1, 0, none⟩), fun w' => exec_move (.tmp 1) rfl _ rfl, ?_⟩
    simp only [Act.put, List.setIfInBounds_toArray, List.set_cons_zero, List.set_cons_succ]
    refine takeAE (i := 2) (oi := { dst := some 24, op := Op.nilCheck (Operand.tmp 23), type := 0, pos := "extended.go:17", after := #[{ on := 1, ground := Ground.data }], guard := none }) rfl (by kernel_rfl) (by kernel_rfl) (by kernel_rfl) (fun _ _ _ _ h => nomatch h.1) (by rfl) ?_
    refine ⟨.pointer (some ⟨g1, 0, none⟩), fun w' => exec_nil (.tmp 23) rfl _ rfl, ?_⟩
    simp only [Act.put, List.setIfInBounds_toArray, List.set_cons_zero, List.set_cons_succ]
    refine takeAE (i := 3) (oi := { dst := some 25, op := Op.fieldAddr 35 (Operand.tmp 24) 0, type := 0, pos := "extended.go:17", after := #[{ on := 2, ground := Ground.data }], guard := none }) rfl (by kernel_rfl) (by kernel_rfl) (by kernel_rfl) (fun _ _ _ _ h => nomatch h.1) (by rfl) ?_
    refine ⟨.pointer (some ⟨g1, 0, none⟩), fun w' => exec_field 35 (.tmp 24) 0 rfl _ 0 rfl (fld35_0 _), ?_⟩
    simp only [Act.put, List.setIfInBounds_toArray, List.set_cons_zero, List.set_cons_succ]
    refine takeT (i := 4) (oi := { dst := some 26, op := Op.load 23 (Operand.tmp 25), type := 23, pos := "extended.go:17", after := #[{ on := 3, ground := Ground.data }], guard := none }) (vN x) rfl (by kernel_rfl) (by kernel_rfl) (by kernel_rfl) (by kernel_rfl) (by kernel_rfl) (fun _ _ _ h => nomatch h.1) (by rfl) (fun w' hk => exec_loadF (.tmp 25) rfl (g1) 0 0 rfl [x, y] x rfl (RX_23.out.below hk HLT23_1.out) rfl) ?_
    simp only [Act.put, List.setIfInBounds_toArray, List.set_cons_zero, List.set_cons_succ]
    refine takeAE (i := 5) (oi := { dst := some 27, op := Op.move (Operand.tmp 1), type := 78, pos := "extended.go:17", after := #[], guard := none }) rfl (by kernel_rfl) (by kernel_rfl) (by kernel_rfl) (fun _ _ _ _ h => nomatch h.1) (by rfl) ?_
    refine ⟨.pointer (some ⟨g1, 0, none⟩), fun w' => exec_move (.tmp 1) rfl _ rfl, ?_⟩
    simp only [Act.put, List.setIfInBounds_toArray, List.set_cons_zero, List.set_cons_succ]
    refine takeAE (i := 6) (oi := { dst := some 28, op := Op.nilCheck (Operand.tmp 27), type := 0, pos := "extended.go:17", after := #[{ on := 5, ground := Ground.data }], guard := none }) rfl (by kernel_rfl) (by kernel_rfl) (by kernel_rfl) (fun _ _ _ _ h => nomatch h.1) (by rfl) ?_
    refine ⟨.pointer (some ⟨g1, 0, none⟩), fun w' => exec_nil (.tmp 27) rfl _ rfl, ?_⟩
    simp only [Act.put, List.setIfInBounds_toArray, List.set_cons_zero, List.set_cons_succ]
    refine takeAE (i := 7) (oi := { dst := some 29, op := Op.fieldAddr 35 (Operand.tmp 28) 1, type := 0, pos := "extended.go:17", after := #[{ on := 6, ground := Ground.data }], guard := none }) rfl (by kernel_rfl) (by kernel_rfl) (by kernel_rfl) (fun _ _ _ _ h => nomatch h.1) (by rfl) ?_
    refine ⟨.pointer (some ⟨g1, 32, none⟩), fun w' => exec_field 35 (.tmp 28) 1 rfl _ 32 rfl (fld35_1 _), ?_⟩
    simp only [Act.put, List.setIfInBounds_toArray, List.set_cons_zero, List.set_cons_succ]
    refine takeT (i := 8) (oi := { dst := some 30, op := Op.load 23 (Operand.tmp 29), type := 23, pos := "extended.go:17", after := #[{ on := 7, ground := Ground.data }], guard := none }) (vN y) rfl (by kernel_rfl) (by kernel_rfl) (by kernel_rfl) (by kernel_rfl) (by kernel_rfl) (fun _ _ _ h => nomatch h.1) (by rfl) (fun w' hk => exec_loadF (.tmp 29) rfl (g1) 1 32 rfl [x, y] y rfl (RX_23.out.below hk HLT23_1.out) rfl) ?_
    simp only [Act.put, List.setIfInBounds_toArray, List.set_cons_zero, List.set_cons_succ]
    refine callW (i := 9) (oi := { dst := some 31, op := Op.call { callee := Callee.value (Operand.func 25), args := #[Operand.tmp 26, Operand.tmp 30], argTypes := #[23, 23] }, type := 23, pos := "extended.go:17", after := #[{ on := 4, ground := Ground.data }, { on := 8, ground := Ground.data }], guard := none }) rfl (by kernel_rfl) (by rfl) (exec_callL 25 [.tmp 26, .tmp 30] #[23, 23] rfl [vN x, vN y] rfl (CG25 _)) ((H2.out D23).mono ?_)
    rintro e24 W24 ⟨rfl, hb24⟩
    refine ⟨_, rfl, fun _ => hb24.mono HL_23.out, ?_⟩
    have RG_24 := Lib.hid (RG_23.out.keep hb24)
    have RX_24 := Lib.hid (RX_23.out.keep hb24)
    have HF_24 : Hid (Keeps (· = g) w W24) := Lib.hid (HF_23.out.call hb24)
    have HL_24 : Hid (v22.heap.size ≤ W24.heap.size) := Lib.hid (Nat.le_trans HL_23.out hb24.size)
    clear hb24 HL_23 RG_23 RX_23 HF_23
    simp only [Act.put, List.setIfInBounds_toArray, List.set_cons_zero, List.set_cons_succ]
    refine takeAE (i := 10) (oi := { dst := some 32, op := Op.nilCheck (Operand.tmp 22), type := 0, pos := "extended.go:17", after := #[{ on := 0, ground := Ground.data }, { on := 0, ground := Ground.phase }, { on := 1, ground := Ground.phase }, { on := 2, ground := Ground.phase }, { on := 3, ground := Ground.phase }, { on := 4, ground := Ground.phase }, { on := 5, ground := Ground.phase }, { on := 6, ground := Ground.phase }, { on := 7, ground := Ground.phase }, { on := 8, ground := Ground.phase }, { on := 9, ground := Ground.phase }], guard := none }) rfl (by kernel_rfl) (by kernel_rfl) (by kernel_rfl) (fun _ _ _ _ h => nomatch h.1) (by rfl) ?_
    refine ⟨.pointer (some ⟨g, 0, none⟩), fun w' => exec_nil (.tmp 22) rfl _ rfl, ?_⟩
    simp only [Act.put, List.setIfInBounds_toArray, List.set_cons_zero, List.set_cons_succ]
    refine takeAE (i := 11) (oi := { dst := some 33, op := Op.fieldAddr 76 (Operand.tmp 32) 3, type := 0, pos := "extended.go:17", after := #[{ on := 10, ground := Ground.data }, { on := 0, ground := Ground.phase }, { on := 1, ground := Ground.phase }, { on := 2, ground := Ground.phase }, { on := 3, ground := Ground.phase }, { on := 4, ground := Ground.phase }, { on := 5, ground := Ground.phase }, { on := 6, ground := Ground.phase }, { on := 7, ground := Ground.phase }, { on := 8, ground := Ground.phase }, { on := 9, ground := Ground.phase }], guard := none }) rfl (by kernel_rfl) (by kernel_rfl) (by kernel_rfl) (fun _ _ _ _ h => nomatch h.1) (by rfl) ?_
    refine ⟨.pointer (some ⟨g, 96, none⟩), fun w' => exec_field 76 (.tmp 32) 3 rfl _ 96 rfl (fld76_3 _), ?_⟩
    simp only [Act.put, List.setIfInBounds_toArray, List.set_cons_zero, List.set_cons_succ]
    refine storeW_F (i := 12) (oi := { dst := none, op := Op.store 23 (Operand.tmp 33) (Operand.tmp 31), type := 0, pos := "extended.go:17", after := #[{ on := 11, ground := Ground.data }, { on := 9, ground := Ground.data }, { on := 9, ground := Ground.chain }, { on := 0, ground := Ground.phase }, { on := 1, ground := Ground.phase }, { on := 2, ground := Ground.phase }, { on := 3, ground := Ground.phase }, { on := 4, ground := Ground.phase }, { on := 5, ground := Ground.phase }, { on := 6, ground := Ground.phase }, { on := 7, ground := Ground.phase }, { on := 8, ground := Ground.phase }, { on := 9, ground := Ground.phase }], guard := none }) rfl (by kernel_rfl) (by rfl) (.tmp 33) (.tmp 31) rfl (g) 3 96 rfl [x, y, 1, r3] t rfl rfl RG_24.out (show 3 < 4 by omega) rfl ?_
    intro W25 hr25 hg25 hz25
    simp only [Act.put, List.setIfInBounds_toArray, List.set_cons_zero, List.set_cons_succ]
    have RG_25 : Hid (RAt W25 g [x, y, 1, t]) := Lib.hid hr25
    have RX_25 := Lib.hid (RX_24.out.grown hg25 (by have := HN1.out; simp; omega))
    have HF_25 : Hid (Keeps (· = g) w W25) := Lib.hid (HF_24.out.ownrow hg25)
    have HL_25 : Hid (v22.heap.size ≤ W25.heap.size) := Lib.hid (Nat.le_trans HL_24.out hg25.size)
    clear hr25 hg25 hz25 HL_24 RG_24 RX_24 HF_24
    refine doneW (by kernel_rfl) ⟨rfl, ?_⟩ _
    exact ⟨RG_25.out, RX_25.out, HF_25.out, rfl⟩
  rintro a' v26 ⟨h0, h1, hF, rfl⟩
  have RG_26 := Lib.hid h0
  have RX_26 := Lib.hid h1
  have HF_26 := Lib.hid hF
  clear h0 h1 hF HLT23_0 HLT23_1 HLO23 RG_22 RX_22 HF_22
  go_wp2_with fail
  refine bodyPost_end (results_none rfl _ _ _) rfl ?_
  exact ⟨rfl, RG_26.out, HF_26.out⟩
end Go.Proofs.Ytgdimnbdnepbgaa
/- Points: out of extended coordinates. No statement is proved here. -/
namespace Go.Proofs.Ytgdimnbdnepbgaa
open Go.RowKit
set_option linter.unusedVariables false
set_option maxRecDepth 40000
set_option linter.unusedSimpArgs false

set_option maxHeartbeats 8000000 in
theorem epoint_core (g x y z t i X Y : Nat) (w : World)
    (C0 : Hid (∀ w, Calls Try.prog 29 #[vN z] w (Gives (vN i) w)))
    (C1 : Hid (∀ w, Calls Try.prog 25 #[vN x, vN i] w (Gives (vN X) w)))
    (C2 : Hid (∀ w, Calls Try.prog 25 #[vN y, vN i] w (Gives (vN Y) w)))
    (RG_0 : Hid (RAt w g [x, y, z, t])) :
    Calls Try.prog 82 #[.pointer (some ⟨g, 0, none⟩)] w (Gives (vR [X, Y]) w) := by
  have HF_0 : Hid (Below w.heap.size w w) := Lib.hid (Below.refl _ _)
  go_enter Try.func82, Try.ntmps82
  go_wp2_with (first | ((with_reducible show wpList _ _ _ (⟨some 2, .alloc 35, _, _, _, _⟩ :: _) _ _); go_must (refine wpList_alloc_row rfl 35 rfl (.agg (zbs 64)) zero35 ?_; intro u1 ha1 hza1 hga1; have RG_1 := Lib.hid (RG_0.out.grown hga1 (by simp)); have Ngr_1 : Hid (RAt u1 w.heap.size [0, 0]) := Lib.hid (zrow (k := 2) ha1); have HF_1 : Hid (Below w.heap.size w u1) := Lib.hid (HF_0.out.grown hga1 HF_0.out.size (by simp)); have HNE1_0 : Hid (g ≠ w.heap.size) := Lib.hid (by have := RG_0.out.lt; omega); have HGE1 : Hid (w.heap.size ≤ w.heap.size) := Lib.hid HF_0.out.size; clear ha1 hza1 hga1 RG_0 HF_0)) | ((with_reducible show wpList _ _ _ (⟨_, .load 23 (.tmp 6), _, _, _, _⟩ :: _) _ _); go_must (refine wpList_exec rfl (vN z) (exec_loadF (.tmp 6) rfl (g) 2 64 rfl [x, y, z, t] z rfl RG_1.out rfl) ?_)) | fail)
  refine (C0.out _).mono ?_
  rintro e2 x2 ⟨rfl, hb2⟩
  have RG_2 := Lib.hid (RG_1.out.keep hb2)
  have Ngr_2 := Lib.hid (Ngr_1.out.keep hb2)
  have HF_2 : Hid (Below w.heap.size w x2) := Lib.hid (HF_1.out.trans (hb2.mono HF_1.out.size))
  clear hb2 RG_1 Ngr_1 HF_1
  go_wp2_with (first | ((with_reducible show wpList _ _ _ (⟨some 3, .alloc 23, _, _, _, _⟩ :: _) _ _); go_must (refine wpList_alloc_row rfl 23 rfl (.agg (zbs 32)) zero23 ?_; intro u3 ha3 hza3 hga3; have HA3 := Lib.hid ha3; have HZA3 := Lib.hid hza3; have HGA3 := Lib.hid hga3; clear ha3 hza3 hga3)) | ((with_reducible show wpList _ _ _ (⟨none, .store 23 (.tmp 3) (.tmp 8), _, _, _, _⟩ :: _) _ _); go_must (refine wpList_storeF rfl (.tmp 3) (.tmp 8) rfl (x2.heap.size) 0 0 rfl [0] i rfl rfl (zrow (k := 1) HA3.out) (show 0 < 1 by omega) ?_; intro y3 hr3 hg3 hz3; have RG_3 := Lib.hid ((RG_2.out.grown HGA3.out (by simp)).grown hg3 (by have := RG_2.out.lt; simp; omega)); have Ngr_3 := Lib.hid ((Ngr_2.out.grown HGA3.out (by simp)).grown hg3 (by have := Ngr_2.out.lt; simp; omega)); have Ng3_3 : Hid (RAt y3 x2.heap.size [i]) := Lib.hid hr3; have HF_3 : Hid (Below w.heap.size w y3) := Lib.hid ((HF_2.out.grown HGA3.out HF_2.out.size (by simp)).grown hg3 (by have := HF_2.out.size; have := HZA3.out; omega) (fun r hr => by injection hr with hr; have := HF_2.out.size; omega)); have HNE3_1 : Hid (g ≠ x2.heap.size) := Lib.hid (by have := RG_2.out.lt; omega); have HNE3_2 : Hid (w.heap.size ≠ x2.heap.size) := Lib.hid (by have := Ngr_2.out.lt; omega); have HGE3 : Hid (w.heap.size ≤ x2.heap.size) := Lib.hid HF_2.out.size; clear hr3 hg3 hz3 HA3 HZA3 HGA3 RG_2 Ngr_2 HF_2)) | fail)
  generalize x2.heap.size = g3 at *
  have HLT4_0 : Hid (g < y3.heap.size) := Lib.hid RG_3.out.lt
  have HLT4_1 : Hid (w.heap.size < y3.heap.size) := Lib.hid Ngr_3.out.lt
  have HLT4_2 : Hid (g3 < y3.heap.size) := Lib.hid Ng3_3.out.lt
  have HLO4 : Hid (w.heap.size ≤ y3.heap.size) := Lib.hid HF_3.out.size
  refine region_split (fun a' W => RAt W g [x, y, z, t] ∧ RAt W w.heap.size [X, Y] ∧ RAt W g3 [i] ∧ Below w.heap.size w W ∧ a' = ⟨#[.pointer (some ⟨g, 0, none⟩), undef, .pointer (some ⟨w.heap.size, 0, none⟩), .pointer (some ⟨g3, 0, none⟩), .pointer (some ⟨g, 0, none⟩), .pointer (some ⟨g, 0, none⟩), .pointer (some ⟨g, 64, none⟩), vN z, vN i, .pointer (some ⟨g, 0, none⟩), .pointer (some ⟨g, 0, none⟩), .pointer (some ⟨g, 0, none⟩), vN x, vN i, vN X, .pointer (some ⟨g, 0, none⟩), .pointer (some ⟨g, 0, none⟩), .pointer (some ⟨g, 32, none⟩), vN y, vN i, vN Y, vR [X, Y]], []⟩) ?_ ?_
  · refine startW (fun j => j == 13) (y3.heap.size) (by kernel_rfl) ?_
    obtain ⟨D4, hD4⟩ : ∃ D, D = y3.drew := ⟨_, rfl⟩
    rw [← hD4]
    have HL_4 : Hid (y3.heap.size ≤ D4.heap.size) := Lib.hid (by rw [hD4]; exact Nat.le_refl _)
    have RG_4 : Hid (RAt D4 g [x, y, z, t]) := Lib.hid (by rw [hD4]; exact RG_3.out)
    have Ngr_4 : Hid (RAt D4 w.heap.size [0, 0]) := Lib.hid (by rw [hD4]; exact Ngr_3.out)
    have Ng3_4 : Hid (RAt D4 g3 [i]) := Lib.hid (by rw [hD4]; exact Ng3_3.out)
    have HF_4 : Hid (Below w.heap.size w D4) := Lib.hid (by rw [hD4]; exact below_drewN' HF_3.out 1)
    clear hD4 RG_3 Ngr_3 Ng3_3 HF_3
    refine takeAE (i := 0) (oi := { dst := some 9, op := Op.move (Operand.tmp 0), type := 80, pos := "extended.go:23", after := #[], guard := none }) rfl (by kernel_rfl) (by kernel_rfl) (by kernel_rfl) (fun _ _ _ _ h => nomatch h.1) (by rfl) ?_
    refine ⟨.pointer (some ⟨g, 0, none⟩), fun w' => exec_move (.tmp 0) rfl _ rfl, ?_⟩
    simp only [Act.put, List.setIfInBounds_toArray, List.set_cons_zero, List.set_cons_succ]
    refine takeAE (i := 1) (oi := { dst := some 10, op := Op.nilCheck (Operand.tmp 9), type := 0, pos := "extended.go:23", after := #[{ on := 0, ground := Ground.data }], guard := none }) rfl (by kernel_rfl) (by kernel_rfl) (by kernel_rfl) (fun _ _ _ _ h => nomatch h.1) (by rfl) ?_
    refine ⟨.pointer (some ⟨g, 0, none⟩), fun w' => exec_nil (.tmp 9) rfl _ rfl, ?_⟩
    simp only [Act.put, List.setIfInBounds_toArray, List.set_cons_zero, List.set_cons_succ]
    refine takeAE (i := 2) (oi := { dst := some 11, op := Op.fieldAddr 76 (Operand.tmp 10) 0, type := 0, pos := "extended.go:23", after := #[{ on := 1, ground := Ground.data }], guard := none }) rfl (by kernel_rfl) (by kernel_rfl) (by kernel_rfl) (fun _ _ _ _ h => nomatch h.1) (by rfl) ?_
    refine ⟨.pointer (some ⟨g, 0, none⟩), fun w' => exec_field 76 (.tmp 10) 0 rfl _ 0 rfl (fld76_0 _), ?_⟩
    simp only [Act.put, List.setIfInBounds_toArray, List.set_cons_zero, List.set_cons_succ]
    refine takeT (i := 3) (oi := { dst := some 12, op := Op.load 23 (Operand.tmp 11), type := 23, pos := "extended.go:23", after := #[{ on := 2, ground := Ground.data }], guard := none }) (vN x) rfl (by kernel_rfl) (by kernel_rfl) (by kernel_rfl) (by kernel_rfl) (by kernel_rfl) (fun _ _ _ h => nomatch h.1) (by rfl) (fun w' hk => exec_loadF (.tmp 11) rfl (g) 0 0 rfl [x, y, z, t] x rfl (RG_4.out.below hk HLT4_0.out) rfl) ?_
    simp only [Act.put, List.setIfInBounds_toArray, List.set_cons_zero, List.set_cons_succ]
    refine takeT (i := 4) (oi := { dst := some 13, op := Op.load 23 (Operand.tmp 3), type := 23, pos := "extended.go:23", after := #[], guard := none }) (vN i) rfl (by kernel_rfl) (by kernel_rfl) (by kernel_rfl) (by kernel_rfl) (by kernel_rfl) (fun _ _ _ h => nomatch h.1) (by rfl) (fun w' hk => exec_loadF (.tmp 3) rfl (g3) 0 0 rfl [i] i rfl (Ng3_4.out.below hk HLT4_2.out) rfl) ?_
    simp only [Act.put, List.setIfInBounds_toArray, List.set_cons_zero, List.set_cons_succ]
    refine takeAE (i := 6) (oi := { dst := some 15, op := Op.move (Operand.tmp 0), type := 80, pos := "extended.go:23", after := #[], guard := none }) rfl (by kernel_rfl) (by kernel_rfl) (by kernel_rfl) (fun _ _ _ _ h => nomatch h.1) (by rfl) ?_
    refine ⟨.pointer (some ⟨g, 0, none⟩), fun w' => exec_move (.tmp 0) rfl _ rfl, ?_⟩
    simp only [Act.put, List.setIfInBounds_toArray, List.set_cons_zero, List.set_cons_succ]
    refine takeAE (i := 7) (oi := { dst := some 16, op := Op.nilCheck (Operand.tmp 15), type := 0, pos := "extended.go:23", after := #[{ on := 6, ground := Ground.data }], guard := none }) rfl (by kernel_rfl) (by kernel_rfl) (by kernel_rfl) (fun _ _ _ _ h => nomatch h.1) (by rfl) ?_
    refine ⟨.pointer (some ⟨g, 0, none⟩), fun w' => exec_nil (.tmp 15) rfl _ rfl, ?_⟩
    simp only [Act.put, List.setIfInBounds_toArray, List.set_cons_zero, List.set_cons_succ]
    refine takeAE (i := 8) (oi := { dst := some 17, op := Op.fieldAddr 76 (Operand.tmp 16) 1, type := 0, pos := "extended.go:23", after := #[{ on := 7, ground := Ground.data }], guard := none }) rfl (by kernel_rfl) (by kernel_rfl) (by kernel_rfl) (fun _ _ _ _ h => nomatch h.1) (by rfl) ?_
    refine ⟨.pointer (some ⟨g, 32, none⟩), fun w' => exec_field 76 (.tmp 16) 1 rfl _ 32 rfl (fld76_1 _), ?_⟩
    simp only [Act.put, List.setIfInBounds_toArray, List.set_cons_zero, List.set_cons_succ]
    refine takeT (i := 9) (oi := { dst := some 18, op := Op.load 23 (Operand.tmp 17), type := 23, pos := "extended.go:23", after := #[{ on := 8, ground := Ground.data }], guard := none }) (vN y) rfl (by kernel_rfl) (by kernel_rfl) (by kernel_rfl) (by kernel_rfl) (by kernel_rfl) (fun _ _ _ h => nomatch h.1) (by rfl) (fun w' hk => exec_loadF (.tmp 17) rfl (g) 1 32 rfl [x, y, z, t] y rfl (RG_4.out.below hk HLT4_0.out) rfl) ?_
    simp only [Act.put, List.setIfInBounds_toArray, List.set_cons_zero, List.set_cons_succ]
    refine takeT (i := 10) (oi := { dst := some 19, op := Op.load 23 (Operand.tmp 3), type := 23, pos := "extended.go:23", after := #[], guard := none }) (vN i) rfl (by kernel_rfl) (by kernel_rfl) (by kernel_rfl) (by kernel_rfl) (by kernel_rfl) (fun _ _ _ h => nomatch h.1) (by rfl) (fun w' hk => exec_loadF (.tmp 3) rfl (g3) 0 0 rfl [i] i rfl (Ng3_4.out.below hk HLT4_2.out) rfl) ?_
    simp only [Act.put, List.setIfInBounds_toArray, List.set_cons_zero, List.set_cons_succ]
    refine callW (i := 5) (oi := { dst := some 14, op := Op.call { callee := Callee.value (Operand.func 25), args := #[Operand.tmp 12, Operand.tmp 13], argTypes := #[23, 23] }, type := 23, pos := "extended.go:23", after := #[{ on := 3, ground := Ground.data }, { on := 4, ground := Ground.data }], guard := none }) rfl (by kernel_rfl) (by rfl) (exec_callL 25 [.tmp 12, .tmp 13] #[23, 23] rfl [vN x, vN i] rfl (CG25 _)) ((C1.out D4).mono ?_)
    rintro e5 W5 ⟨rfl, hb5⟩
    refine ⟨_, rfl, fun _ => hb5.mono HL_4.out, ?_⟩
    have RG_5 := Lib.hid (RG_4.out.keep hb5)
    have Ngr_5 := Lib.hid (Ngr_4.out.keep hb5)
    have Ng3_5 := Lib.hid (Ng3_4.out.keep hb5)
    have HF_5 : Hid (Below w.heap.size w W5) := Lib.hid (HF_4.out.trans (hb5.mono HF_4.out.size))
    have HL_5 : Hid (y3.heap.size ≤ W5.heap.size) := Lib.hid (Nat.le_trans HL_4.out hb5.size)
    clear hb5 HL_4 RG_4 Ngr_4 Ng3_4 HF_4
    simp only [Act.put, List.setIfInBounds_toArray, List.set_cons_zero, List.set_cons_succ]
    refine callW (i := 11) (oi := { dst := some 20, op := Op.call { callee := Callee.value (Operand.func 25), args := #[Operand.tmp 18, Operand.tmp 19], argTypes := #[23, 23] }, type := 23, pos := "extended.go:23", after := #[{ on := 9, ground := Ground.data }, { on := 10, ground := Ground.data }, { on := 5, ground := Ground.chain }], guard := none }) rfl (by kernel_rfl) (by rfl) (exec_callL 25 [.tmp 18, .tmp 19] #[23, 23] rfl [vN y, vN i] rfl (CG25 _)) ((C2.out W5).mono ?_)
    rintro e6 W6 ⟨rfl, hb6⟩
    refine ⟨_, rfl, fun _ => hb6.mono HL_5.out, ?_⟩
    have RG_6 := Lib.hid (RG_5.out.keep hb6)
    have Ngr_6 := Lib.hid (Ngr_5.out.keep hb6)
    have Ng3_6 := Lib.hid (Ng3_5.out.keep hb6)
    have HF_6 : Hid (Below w.heap.size w W6) := Lib.hid (HF_5.out.trans (hb6.mono HF_5.out.size))
    have HL_6 : Hid (y3.heap.size ≤ W6.heap.size) := Lib.hid (Nat.le_trans HL_5.out hb6.size)
    clear hb6 HL_5 RG_5 Ngr_5 Ng3_5 HF_5
    simp only [Act.put, List.setIfInBounds_toArray, List.set_cons_zero, List.set_cons_succ]
    refine takeAE (i := 12) (oi := { dst := some 21, op := Op.build 35 #[(0, Operand.tmp 14), (1, Operand.tmp 20)], type := 35, pos := "extended.go:23", after := #[{ on := 5, ground := Ground.data }, { on := 11, ground := Ground.data }], guard := none }) rfl (by kernel_rfl) (by kernel_rfl) (by kernel_rfl) (fun _ _ _ _ h => nomatch h.1) (by rfl) ?_
    refine ⟨vR [X, Y], fun w' => exec_build35 (.tmp 14) (.tmp 20) X Y rfl rfl rfl, ?_⟩
    simp only [Act.put, List.setIfInBounds_toArray, List.set_cons_zero, List.set_cons_succ]
    refine storeW_P (i := 13) (oi := { dst := none, op := Op.store 35 (Operand.tmp 2) (Operand.tmp 21), type := 0, pos := "extended.go:23", after := #[{ on := 12, ground := Ground.data }, { on := 11, ground := Ground.chain }, { on := 0, ground := Ground.phase }, { on := 1, ground := Ground.phase }, { on := 2, ground := Ground.phase }, { on := 3, ground := Ground.phase }, { on := 4, ground := Ground.phase }, { on := 5, ground := Ground.phase }, { on := 6, ground := Ground.phase }, { on := 7, ground := Ground.phase }, { on := 8, ground := Ground.phase }, { on := 9, ground := Ground.phase }, { on := 10, ground := Ground.phase }, { on := 11, ground := Ground.phase }, { on := 12, ground := Ground.phase }], guard := none }) rfl (by kernel_rfl) (by rfl) (.tmp 2) (.tmp 21) rfl (w.heap.size) [0, 0] X Y rfl rfl Ngr_6.out rfl rfl ?_
    intro W7 hr7 hg7 hz7
    simp only [Act.put, List.setIfInBounds_toArray, List.set_cons_zero, List.set_cons_succ]
    have RG_7 := Lib.hid (RG_6.out.grown hg7 (by have := HNE1_0.out; simp; omega))
    have Ngr_7 : Hid (RAt W7 w.heap.size [X, Y]) := Lib.hid hr7
    have Ng3_7 := Lib.hid (Ng3_6.out.grown hg7 (by have := HNE3_2.out; simp; omega))
    have HF_7 : Hid (Below w.heap.size w W7) := Lib.hid (HF_6.out.grown hg7 HF_6.out.size (fun r hr => by injection hr with hr; have := HGE1.out; omega))
    have HL_7 : Hid (y3.heap.size ≤ W7.heap.size) := Lib.hid (Nat.le_trans HL_6.out hg7.size)
    clear hr7 hg7 hz7 HL_6 RG_6 Ngr_6 Ng3_6 HF_6
    refine doneW (by kernel_rfl) ⟨rfl, ?_⟩ _
    exact ⟨RG_7.out, Ngr_7.out, Ng3_7.out, HF_7.out, rfl⟩
  rintro a' v8 ⟨h0, h1, h2, hF, rfl⟩
  have RG_8 := Lib.hid h0
  have Ngr_8 := Lib.hid h1
  have Ng3_8 := Lib.hid h2
  have HF_8 := Lib.hid hF
  clear h0 h1 h2 hF HLT4_0 HLT4_1 HLT4_2 HLO4 RG_3 Ngr_3 Ng3_3 HF_3
  go_wp2_with fail
  obtain ⟨tr, htr⟩ := Ngr_8.out
  refine bodyPost_ret (results_cell_row rfl _ _ w.heap.size tr (bcs (encs [X, Y])).toArray _ _ rfl htr Try.underlying35 rfl (by rw [List.size_toArray, bcs_len, encs_len]; exact size35)) rfl ?_
  exact ⟨rfl, HF_8.out⟩
end Go.Proofs.Ytgdimnbdnepbgaa
/- The curve: D, Zero, Base, onCurve, Check, Add, Neg. No statement is proved here. -/
namespace Go.Proofs.Ytgdimnbdnepbgaa
open Go.RowKit
set_option linter.unusedVariables false
set_option maxRecDepth 40000
set_option linter.unusedSimpArgs false

def dN : Nat := 37095705934669439343138083508754565189542113879843219016388785533085940283555
def bxN : Nat := 15112221349535400772501151409588531511454012693041857206046113283949847762202
def byN : Nat := 46316835694926478169428394003475163141307993866256225615783033603165251855960
theorem Keeps.method {G : Nat → Prop} {w x y : World} {r : Nat} (h : Keeps G w x) (hk : Keeps (· = r) x y) (hr : w.heap.size ≤ r) : Keeps G w y :=
  ⟨hk.os.trans h.os, hk.tape.trans h.tape, hk.output.trans h.output, Nat.le_trans h.size hk.size, fun k hlt hn => (hk.block k (Nat.lt_of_lt_of_le hlt h.size) (by show ¬ _ = _; omega)).trans (h.block k hlt hn)⟩
theorem exec_buildc {o : Oper} {a : Act} {w : World} {t : TypeId} {parts : Array (Nat × Operand)} {v : Value} (ho : o.op = .build t parts) (h : (Instr.build t (parts.map fun (i, x) => (i, a.eval x))).run Try.prog w = .ok v w) : (execOp a.eval o).run Try.prog w = .ok (.value v) w := by
  unfold execOp
  simp only [ho, Sem.run_bind, Sem.run_pure]
  rw [h]
  rfl
theorem run_build35_1 (n : Nat) (w : World) : (Instr.build 35 #[(1, vN n)]).run Try.prog w = .ok (vR [0, n]) w := by kernel_rfl
theorem exec_build35_1 {o : Oper} {a : Act} {w : World} (x : Operand) (n : Nat) (ho : o.op = .build 35 #[(1, x)]) (hx : a.eval x = vN n) : (execOp a.eval o).run Try.prog w = .ok (.value (vR [0, n])) w := by
  unfold execOp
  simp only [ho, List.map_toArray, List.map_cons, List.map_nil, Sem.run_bind, Sem.run_pure, hx]
  rw [run_build35_1 n w]
  rfl

set_option maxHeartbeats 1000000 in
theorem D_any (w : World) : Calls Try.prog 45 #[] w (Gives (vN dN) w) := by
  have HF_0 : Hid (Below w.heap.size w w) := Lib.hid (Below.refl _ _)
  go_enter Try.func45, Try.ntmps45
  go_wp2_with (first | ((with_reducible show wpList _ _ _ (⟨some 0, .alloc 23, _, _, _, _⟩ :: _) _ _); go_must (refine wpList_alloc_row rfl 23 rfl (.agg (zbs 32)) zero23 ?_; intro u1 ha1 hza1 hga1; have Ngr_1 : Hid (RAt u1 w.heap.size [0]) := Lib.hid (zrow (k := 1) ha1); have HF_1 : Hid (Below w.heap.size w u1) := Lib.hid (HF_0.out.grown hga1 HF_0.out.size (by simp)); have HGE1 : Hid (w.heap.size ≤ w.heap.size) := Lib.hid HF_0.out.size; clear ha1 hza1 hga1 HF_0)) | ((with_reducible show wpList _ _ _ (⟨some 1, .build 23 _, _, _, _, _⟩ :: _) _ _); go_must (refine wpList_exec rfl (vN dN) (exec_buildc rfl (by kernel_rfl)) ?_)) | ((with_reducible show wpList _ _ _ (⟨none, .store 23 (.tmp 0) (.tmp 1), _, _, _, _⟩ :: _) _ _); go_must (refine wpList_storeF rfl (.tmp 0) (.tmp 1) rfl (w.heap.size) 0 0 rfl [0] dN rfl rfl Ngr_1.out (show 0 < 1 by omega) ?_; intro y2 hr2 hg2 hz2; have Ngr_2 : Hid (RAt y2 w.heap.size [dN]) := Lib.hid hr2; have HF_2 : Hid (Below w.heap.size w y2) := Lib.hid (HF_1.out.grown hg2 HF_1.out.size (fun r hr => by injection hr with hr; have := HGE1.out; omega)); clear hr2 hg2 hz2 Ngr_1 HF_1)) | fail)
  obtain ⟨tr, htr⟩ := Ngr_2.out
  refine bodyPost_ret (results_cell_row rfl _ _ w.heap.size tr (bcs (encs [dN])).toArray _ _ rfl htr under23 rfl (by rw [List.size_toArray, bcs_len, encs_len]; exact size23)) rfl ?_
  exact ⟨by rw [← vR_one]; rfl, HF_2.out⟩

set_option maxHeartbeats 1000000 in
theorem Zero_any (w : World) : Calls Try.prog 39 #[] w (Gives (vR [0, 1]) w) := by
  have HF_0 : Hid (Below w.heap.size w w) := Lib.hid (Below.refl _ _)
  go_enter Try.func39, Try.ntmps39
  go_wp2_with (first | ((with_reducible show wpList _ _ _ (⟨some 0, .alloc 35, _, _, _, _⟩ :: _) _ _); go_must (refine wpList_alloc_row rfl 35 rfl (.agg (zbs 64)) zero35 ?_; intro u3 ha3 hza3 hga3; have Ngr_3 : Hid (RAt u3 w.heap.size [0, 0]) := Lib.hid (zrow (k := 2) ha3); have HF_3 : Hid (Below w.heap.size w u3) := Lib.hid (HF_0.out.grown hga3 HF_0.out.size (by simp)); have HGE3 : Hid (w.heap.size ≤ w.heap.size) := Lib.hid HF_0.out.size; clear ha3 hza3 hga3 HF_0)) | ((with_reducible show wpList _ _ _ (⟨some 1, .build 23 _, _, _, _, _⟩ :: _) _ _); go_must (refine wpList_exec rfl (vN 1) (exec_buildc rfl (by kernel_rfl)) ?_)) | ((with_reducible show wpList _ _ _ (⟨some 2, .build 35 _, _, _, _, _⟩ :: _) _ _); go_must (refine wpList_exec rfl (vR [0, 1]) (exec_build35_1 (.tmp 1) 1 rfl rfl) ?_)) | ((with_reducible show wpList _ _ _ (⟨none, .store 35 (.tmp 0) (.tmp 2), _, _, _, _⟩ :: _) _ _); go_must (refine wpList_storeP rfl (.tmp 0) (.tmp 2) rfl (w.heap.size) [0, 0] 0 1 rfl rfl Ngr_3.out rfl ?_; intro y4 hr4 hg4 hz4; have Ngr_4 : Hid (RAt y4 w.heap.size [0, 1]) := Lib.hid hr4; have HF_4 : Hid (Below w.heap.size w y4) := Lib.hid (HF_3.out.grown hg4 HF_3.out.size (fun r hr => by injection hr with hr; have := HGE3.out; omega)); clear hr4 hg4 hz4 Ngr_3 HF_3)) | fail)
  go_wp2_with fail
  obtain ⟨tr, htr⟩ := Ngr_4.out
  refine bodyPost_ret (results_cell_row rfl _ _ w.heap.size tr (bcs (encs [0, 1])).toArray _ _ rfl htr Try.underlying35 rfl (by rw [List.size_toArray, bcs_len, encs_len]; exact size35)) rfl ?_
  exact ⟨rfl, HF_4.out⟩

set_option maxHeartbeats 1000000 in
theorem Base_any (w : World) : Calls Try.prog 42 #[] w (Gives (vR [bxN, byN]) w) := by
  have HF_0 : Hid (Below w.heap.size w w) := Lib.hid (Below.refl _ _)
  go_enter Try.func42, Try.ntmps42
  go_wp2_with (first | ((with_reducible show wpList _ _ _ (⟨some 0, .alloc 35, _, _, _, _⟩ :: _) _ _); go_must (refine wpList_alloc_row rfl 35 rfl (.agg (zbs 64)) zero35 ?_; intro u5 ha5 hza5 hga5; have Ngr_5 : Hid (RAt u5 w.heap.size [0, 0]) := Lib.hid (zrow (k := 2) ha5); have HF_5 : Hid (Below w.heap.size w u5) := Lib.hid (HF_0.out.grown hga5 HF_0.out.size (by simp)); have HGE5 : Hid (w.heap.size ≤ w.heap.size) := Lib.hid HF_0.out.size; clear ha5 hza5 hga5 HF_0)) | ((with_reducible show wpList _ _ _ (⟨some 1, .build 23 _, _, _, _, _⟩ :: _) _ _); go_must (refine wpList_exec rfl (vN bxN) (exec_buildc rfl (by kernel_rfl)) ?_)) | ((with_reducible show wpList _ _ _ (⟨some 2, .build 23 _, _, _, _, _⟩ :: _) _ _); go_must (refine wpList_exec rfl (vN byN) (exec_buildc rfl (by kernel_rfl)) ?_)) | ((with_reducible show wpList _ _ _ (⟨some 3, .build 35 _, _, _, _, _⟩ :: _) _ _); go_must (refine wpList_exec rfl (vR [bxN, byN]) (exec_build35 (.tmp 1) (.tmp 2) bxN byN rfl rfl rfl) ?_)) | ((with_reducible show wpList _ _ _ (⟨none, .store 35 (.tmp 0) (.tmp 3), _, _, _, _⟩ :: _) _ _); go_must (refine wpList_storeP rfl (.tmp 0) (.tmp 3) rfl (w.heap.size) [0, 0] bxN byN rfl rfl Ngr_5.out rfl ?_; intro y6 hr6 hg6 hz6; have Ngr_6 : Hid (RAt y6 w.heap.size [bxN, byN]) := Lib.hid hr6; have HF_6 : Hid (Below w.heap.size w y6) := Lib.hid (HF_5.out.grown hg6 HF_5.out.size (fun r hr => by injection hr with hr; have := HGE5.out; omega)); clear hr6 hg6 hz6 Ngr_5 HF_5)) | fail)
  go_wp2_with fail
  obtain ⟨tr, htr⟩ := Ngr_6.out
  refine bodyPost_ret (results_cell_row rfl _ _ w.heap.size tr (bcs (encs [bxN, byN])).toArray _ _ rfl htr Try.underlying35 rfl (by rw [List.size_toArray, bcs_len, encs_len]; exact size35)) rfl ?_
  exact ⟨rfl, HF_6.out⟩

set_option maxHeartbeats 4000000 in
theorem onCurve_core (x y xx yy l dd m dm r : Nat) (b : Bool) (w : World)
    (C0 : Hid (∀ w, Calls Try.prog 25 #[vN x, vN x] w (Gives (vN xx) w)))
    (C1 : Hid (∀ w, Calls Try.prog 25 #[vN y, vN y] w (Gives (vN yy) w)))
    (C2 : Hid (∀ w, Calls Try.prog 21 #[vN yy, vN xx] w (Gives (vN l) w)))
    (C3 : Hid (∀ w, Calls Try.prog 17 #[.int .u64 1] w (Gives (vN 1) w)))
    (C4 : Hid (∀ w, Calls Try.prog 45 #[] w (Gives (vN dd) w)))
    (C5 : Hid (∀ w, Calls Try.prog 25 #[vN xx, vN yy] w (Gives (vN m) w)))
    (C6 : Hid (∀ w, Calls Try.prog 25 #[vN dd, vN m] w (Gives (vN dm) w)))
    (C7 : Hid (∀ w, Calls Try.prog 19 #[vN 1, vN dm] w (Gives (vN r) w)))
    (HE : Hid (∀ w, (Op.equalIn 10000 23 (vN l) (vN r)).run Try.prog w = .ok b w)) :
    Calls Try.prog 79 #[vR [x, y]] w (Gives (.bool b) w) := by
  have HF_0 : Hid (Below w.heap.size w w) := Lib.hid (Below.refl _ _)
  go_enter Try.func79, Try.ntmps79
  go_wp2_with (first | ((with_reducible show wpList _ _ _ (⟨some 1, .box 35 (.tmp 0), _, _, _, _⟩ :: _) _ _); go_must (refine wpList_box_row rfl 35 (.tmp 0) rfl (bcs (encs [x, y])).toArray rfl ?_; intro u7 ha7 hza7 hga7; have Ngp_7 : Hid (RAt u7 w.heap.size [x, y]) := Lib.hid (⟨_, ha7⟩); have HF_7 : Hid (Below w.heap.size w u7) := Lib.hid (HF_0.out.grown hga7 HF_0.out.size (by simp)); have HGE7 : Hid (w.heap.size ≤ w.heap.size) := Lib.hid HF_0.out.size; clear ha7 hza7 hga7 HF_0)) | fail)
  have HLT8_0 : Hid (w.heap.size < u7.heap.size) := Lib.hid Ngp_7.out.lt
  have HLO8 : Hid (w.heap.size ≤ u7.heap.size) := Lib.hid HF_7.out.size
  refine region_split (fun a' W => ∃ a8_0 a8_1, RAt W w.heap.size [x, y] ∧ RAt W a8_0 [xx] ∧ RAt W a8_1 [yy] ∧ u7.heap.size ≤ a8_0 ∧ u7.heap.size ≤ a8_1 ∧ a8_1 ≠ a8_0 ∧ Below w.heap.size w W ∧ a' = ⟨#[vR [x, y], .pointer (some ⟨w.heap.size, 0, none⟩), .bool false, .pointer (some ⟨a8_0, 0, none⟩), .pointer (some ⟨a8_1, 0, none⟩), .pointer (some ⟨w.heap.size, 0, none⟩), vN x, .pointer (some ⟨w.heap.size, 0, none⟩), vN x, vN xx, .pointer (some ⟨w.heap.size, 32, none⟩), vN y, .pointer (some ⟨w.heap.size, 32, none⟩), vN y, vN yy, undef, undef, undef, undef, undef, undef, undef, undef, undef, undef, undef], []⟩) ?_ ?_
  · refine startW (fun j => j == 12 || j == 13) (u7.heap.size) (by kernel_rfl) ?_
    obtain ⟨D8, hD8⟩ : ∃ D, D = u7.drew := ⟨_, rfl⟩
    rw [← hD8]
    have HL_8 : Hid (u7.heap.size ≤ D8.heap.size) := Lib.hid (by rw [hD8]; exact Nat.le_refl _)
    have Ngp_8 : Hid (RAt D8 w.heap.size [x, y]) := Lib.hid (by rw [hD8]; exact Ngp_7.out)
    have HF_8 : Hid (Below w.heap.size w D8) := Lib.hid (by rw [hD8]; exact below_drewN' HF_7.out 1)
    clear hD8 Ngp_7 HF_7
    refine takeAE (i := 0) (oi := { dst := some 5, op := Op.fieldAddr 35 (Operand.tmp 1) 0, type := 0, pos := "curve.go:47", after := #[], guard := none }) rfl (by kernel_rfl) (by kernel_rfl) (by kernel_rfl) (fun _ _ _ _ h => nomatch h.1) (by rfl) ?_
    refine ⟨.pointer (some ⟨w.heap.size, 0, none⟩), fun w' => exec_field 35 (.tmp 1) 0 rfl _ 0 rfl (fld35_0 _), ?_⟩
    simp only [Act.put, List.setIfInBounds_toArray, List.set_cons_zero, List.set_cons_succ]
    refine takeT (i := 1) (oi := { dst := some 6, op := Op.load 23 (Operand.tmp 5), type := 23, pos := "curve.go:47", after := #[{ on := 0, ground := Ground.data }], guard := none }) (vN x) rfl (by kernel_rfl) (by kernel_rfl) (by kernel_rfl) (by kernel_rfl) (by kernel_rfl) (fun _ _ _ h => nomatch h.1) (by rfl) (fun w' hk => exec_loadF (.tmp 5) rfl (w.heap.size) 0 0 rfl [x, y] x rfl (Ngp_8.out.below hk HLT8_0.out) rfl) ?_
    simp only [Act.put, List.setIfInBounds_toArray, List.set_cons_zero, List.set_cons_succ]
    refine takeAE (i := 2) (oi := { dst := some 7, op := Op.fieldAddr 35 (Operand.tmp 1) 0, type := 0, pos := "curve.go:47", after := #[], guard := none }) rfl (by kernel_rfl) (by kernel_rfl) (by kernel_rfl) (fun _ _ _ _ h => nomatch h.1) (by rfl) ?_
    refine ⟨.pointer (some ⟨w.heap.size, 0, none⟩), fun w' => exec_field 35 (.tmp 1) 0 rfl _ 0 rfl (fld35_0 _), ?_⟩
    simp only [Act.put, List.setIfInBounds_toArray, List.set_cons_zero, List.set_cons_succ]
    refine takeT (i := 3) (oi := { dst := some 8, op := Op.load 23 (Operand.tmp 7), type := 23, pos := "curve.go:47", after := #[{ on := 2, ground := Ground.data }], guard := none }) (vN x) rfl (by kernel_rfl) (by kernel_rfl) (by kernel_rfl) (by kernel_rfl) (by kernel_rfl) (fun _ _ _ h => nomatch h.1) (by rfl) (fun w' hk => exec_loadF (.tmp 7) rfl (w.heap.size) 0 0 rfl [x, y] x rfl (Ngp_8.out.below hk HLT8_0.out) rfl) ?_
    simp only [Act.put, List.setIfInBounds_toArray, List.set_cons_zero, List.set_cons_succ]
    refine takeAE (i := 5) (oi := { dst := some 10, op := Op.fieldAddr 35 (Operand.tmp 1) 1, type := 0, pos := "curve.go:47", after := #[], guard := none }) rfl (by kernel_rfl) (by kernel_rfl) (by kernel_rfl) (fun _ _ _ _ h => nomatch h.1) (by rfl) ?_
    refine ⟨.pointer (some ⟨w.heap.size, 32, none⟩), fun w' => exec_field 35 (.tmp 1) 1 rfl _ 32 rfl (fld35_1 _), ?_⟩
    simp only [Act.put, List.setIfInBounds_toArray, List.set_cons_zero, List.set_cons_succ]
    refine takeT (i := 6) (oi := { dst := some 11, op := Op.load 23 (Operand.tmp 10), type := 23, pos := "curve.go:47", after := #[{ on := 5, ground := Ground.data }], guard := none }) (vN y) rfl (by kernel_rfl) (by kernel_rfl) (by kernel_rfl) (by kernel_rfl) (by kernel_rfl) (fun _ _ _ h => nomatch h.1) (by rfl) (fun w' hk => exec_loadF (.tmp 10) rfl (w.heap.size) 1 32 rfl [x, y] y rfl (Ngp_8.out.below hk HLT8_0.out) rfl) ?_
    simp only [Act.put, List.setIfInBounds_toArray, List.set_cons_zero, List.set_cons_succ]
    refine takeAE (i := 7) (oi := { dst := some 12, op := Op.fieldAddr 35 (Operand.tmp 1) 1, type := 0, pos := "curve.go:47", after := #[], guard := none }) rfl (by kernel_rfl) (by kernel_rfl) (by kernel_rfl) (fun _ _ _ _ h => nomatch h.1) (by rfl) ?_
    refine ⟨.pointer (some ⟨w.heap.size, 32, none⟩), fun w' => exec_field 35 (.tmp 1) 1 rfl _ 32 rfl (fld35_1 _), ?_⟩
    simp only [Act.put, List.setIfInBounds_toArray, List.set_cons_zero, List.set_cons_succ]
    refine takeT (i := 8) (oi := { dst := some 13, op := Op.load 23 (Operand.tmp 12), type := 23, pos := "curve.go:47", after := #[{ on := 7, ground := Ground.data }], guard := none }) (vN y) rfl (by kernel_rfl) (by kernel_rfl) (by kernel_rfl) (by kernel_rfl) (by kernel_rfl) (fun _ _ _ h => nomatch h.1) (by rfl) (fun w' hk => exec_loadF (.tmp 12) rfl (w.heap.size) 1 32 rfl [x, y] y rfl (Ngp_8.out.below hk HLT8_0.out) rfl) ?_
    simp only [Act.put, List.setIfInBounds_toArray, List.set_cons_zero, List.set_cons_succ]
    refine eachW [4, 10, 11] (by kernel_rfl) (by simp) ?_
    intro k hk
    simp only [List.mem_cons, List.not_mem_nil, or_false] at hk
    rcases hk with rfl | rfl | rfl
    · refine wpOp_call (i := 4) (oi := { dst := some 9, op := Op.call { callee := Callee.value (Operand.func 25), args := #[Operand.tmp 6, Operand.tmp 8], argTypes := #[23, 23] }, type := 23, pos := "curve.go:47", after := #[{ on := 1, ground := Ground.data }, { on := 3, ground := Ground.data }], guard := none }) rfl (by rfl) (exec_callL 25 [.tmp 6, .tmp 8] #[23, 23] rfl [vN x, vN x] rfl (CG25 _)) ((C0.out D8).mono ?_)
      rintro e9 W9 ⟨rfl, hb9⟩
      refine ⟨_, rfl, fun _ => hb9.mono HL_8.out, ?_⟩
      have Ngp_9 := Lib.hid (Ngp_8.out.keep hb9)
      have HF_9 : Hid (Below w.heap.size w W9) := Lib.hid (HF_8.out.trans (hb9.mono HF_8.out.size))
      have HL_9 : Hid (u7.heap.size ≤ W9.heap.size) := Lib.hid (Nat.le_trans HL_8.out hb9.size)
      clear hb9 HL_8 Ngp_8 HF_8
      simp only [Act.put, List.setIfInBounds_toArray, List.set_cons_zero, List.set_cons_succ]
      refine eachW [9, 10, 11] (by kernel_rfl) (by simp) ?_
      intro k hk
      simp only [List.mem_cons, List.not_mem_nil, or_false] at hk
      rcases hk with rfl | rfl | rfl
      · refine wpOp_call (i := 9) (oi := { dst := some 14, op := Op.call { callee := Callee.value (Operand.func 25), args := #[Operand.tmp 11, Operand.tmp 13], argTypes := #[23, 23] }, type := 23, pos := "curve.go:47", after := #[{ on := 6, ground := Ground.data }, { on := 8, ground := Ground.data }, { on := 4, ground := Ground.chain }], guard := none }) rfl (by rfl) (exec_callL 25 [.tmp 11, .tmp 13] #[23, 23] rfl [vN y, vN y] rfl (CG25 _)) ((C1.out W9).mono ?_)
        rintro e10 W10 ⟨rfl, hb10⟩
        refine ⟨_, rfl, fun _ => hb10.mono HL_9.out, ?_⟩
        have Ngp_10 := Lib.hid (Ngp_9.out.keep hb10)
        have HF_10 : Hid (Below w.heap.size w W10) := Lib.hid (HF_9.out.trans (hb10.mono HF_9.out.size))
        have HL_10 : Hid (u7.heap.size ≤ W10.heap.size) := Lib.hid (Nat.le_trans HL_9.out hb10.size)
        clear hb10 HL_9 Ngp_9 HF_9
        simp only [Act.put, List.setIfInBounds_toArray, List.set_cons_zero, List.set_cons_succ]
        refine eachW [10, 11] (by kernel_rfl) (by simp) ?_
        intro k hk
        simp only [List.mem_cons, List.not_mem_nil, or_false] at hk
        rcases hk with rfl | rfl
        · refine wpOp_value (i := 10) (oi := { dst := some 3, op := Op.alloc 23, type := 0, pos := "curve.go:47", after := #[], guard := none }) rfl (by rfl) (exec_alloc 23 rfl (.agg (zbs 32)) zero23 W10) ⟨fun _ => (below_alloc W10 _).mono HL_10.out, ?_⟩
          obtain ⟨W11, hW11, hb11, hz11⟩ := alloc_zero W10
          rw [← hW11]
          obtain ⟨g11, hg11⟩ : ∃ g, g = W10.heap.size := ⟨_, rfl⟩
          rw [← hg11] at hz11 ⊢
          have HG11 : Hid (u7.heap.size ≤ g11) := Lib.hid (by rw [hg11]; exact HL_10.out)
          have HX11_0 : Hid (w.heap.size ≠ g11) := Lib.hid (by have := Ngp_10.out.lt; omega)
          have Ngp_11 := Lib.hid (Ngp_10.out.keep hb11)
          have HF_11 : Hid (Below w.heap.size w W11) := Lib.hid (HF_10.out.trans (hb11.mono HF_10.out.size))
          have HL_11 : Hid (u7.heap.size ≤ W11.heap.size) := Lib.hid (Nat.le_trans HL_10.out hb11.size)
          have RZ11_11 : Hid (RAt W11 g11 [0]) := Lib.hid (zrow (k := 1) hz11)
          clear hb11 hz11 hg11 hW11 HL_10 Ngp_10 HF_10
          simp only [Act.put, List.setIfInBounds_toArray, List.set_cons_zero, List.set_cons_succ]
          refine opW _ _ (i := 11) (oi := { dst := some 4, op := Op.alloc 23, type := 0, pos := "curve.go:47", after := #[], guard := none }) rfl (by kernel_rfl) (by rfl) (exec_alloc 23 rfl (.agg (zbs 32)) zero23 W11) (fun _ => (below_alloc W11 _).mono HL_11.out) ?_
          obtain ⟨W12, hW12, hb12, hz12⟩ := alloc_zero W11
          rw [← hW12]
          obtain ⟨g12, hg12⟩ : ∃ g, g = W11.heap.size := ⟨_, rfl⟩
          rw [← hg12] at hz12 ⊢
          have HG12 : Hid (u7.heap.size ≤ g12) := Lib.hid (by rw [hg12]; exact HL_11.out)
          have HX12_1 : Hid (w.heap.size ≠ g12) := Lib.hid (by have := Ngp_11.out.lt; omega)
          have HX12_2 : Hid (g11 ≠ g12) := Lib.hid (by have := RZ11_11.out.lt; omega)
          have Ngp_12 := Lib.hid (Ngp_11.out.keep hb12)
          have RZ11_12 := Lib.hid (RZ11_11.out.keep hb12)
          have HF_12 : Hid (Below w.heap.size w W12) := Lib.hid (HF_11.out.trans (hb12.mono HF_11.out.size))
          have HL_12 : Hid (u7.heap.size ≤ W12.heap.size) := Lib.hid (Nat.le_trans HL_11.out hb12.size)
          have RZ12_12 : Hid (RAt W12 g12 [0]) := Lib.hid (zrow (k := 1) hz12)
          clear hb12 hz12 hg12 hW12 HL_11 Ngp_11 RZ11_11 HF_11
          simp only [Act.put, List.setIfInBounds_toArray, List.set_cons_zero, List.set_cons_succ]
          refine storeW_F (i := 12) (oi := { dst := none, op := Op.store 23 (Operand.tmp 3) (Operand.tmp 9), type := 0, pos := "curve.go:47", after := #[{ on := 10, ground := Ground.data }, { on := 4, ground := Ground.data }, { on := 9, ground := Ground.chain }, { on := 0, ground := Ground.phase }, { on := 1, ground := Ground.phase }, { on := 2, ground := Ground.phase }, { on := 3, ground := Ground.phase }, { on := 4, ground := Ground.phase }, { on := 5, ground := Ground.textOnly Departure.lateStores }, { on := 6, ground := Ground.textOnly Departure.lateStores }, { on := 7, ground := Ground.textOnly Departure.lateStores }, { on := 8, ground := Ground.textOnly Departure.lateStores }, { on := 9, ground := Ground.textOnly Departure.lateStoresUnsure }, { on := 10, ground := Ground.phase }, { on := 11, ground := Ground.phase }], guard := none }) rfl (by kernel_rfl) (by rfl) (.tmp 3) (.tmp 9) rfl (g11) 0 0 rfl [0] xx rfl rfl RZ11_12.out (show 0 < 1 by omega) rfl ?_
          intro W13 hr13 hg13 hz13
          simp only [Act.put, List.setIfInBounds_toArray, List.set_cons_zero, List.set_cons_succ]
          have Ngp_13 := Lib.hid (Ngp_12.out.grown hg13 (by have := HX11_0.out; simp; omega))
          have RZ11_13 : Hid (RAt W13 g11 [xx]) := Lib.hid hr13
          have RZ12_13 := Lib.hid (RZ12_12.out.grown hg13 (by have := HX12_2.out; simp; omega))
          have HF_13 : Hid (Below w.heap.size w W13) := Lib.hid (HF_12.out.grown hg13 HF_12.out.size (fun r hr => by injection hr with hr; have := (show w.heap.size ≤ g11 from (by have := HG11.out; have := HLO8.out; omega)); omega))
          have HL_13 : Hid (u7.heap.size ≤ W13.heap.size) := Lib.hid (Nat.le_trans HL_12.out hg13.size)
          clear hr13 hg13 hz13 HL_12 Ngp_12 RZ11_12 RZ12_12 HF_12
          refine storeW_F (i := 13) (oi := { dst := none, op := Op.store 23 (Operand.tmp 4) (Operand.tmp 14), type := 0, pos := "curve.go:47", after := #[{ on := 11, ground := Ground.data }, { on := 9, ground := Ground.data }, { on := 12, ground := Ground.chain }, { on := 0, ground := Ground.phase }, { on := 1, ground := Ground.phase }, { on := 2, ground := Ground.phase }, { on := 3, ground := Ground.phase }, { on := 4, ground := Ground.phase }, { on := 5, ground := Ground.phase }, { on := 6, ground := Ground.phase }, { on := 7, ground := Ground.phase }, { on := 8, ground := Ground.phase }, { on := 9, ground := Ground.phase }, { on := 10, ground := Ground.phase }, { on := 11, ground := Ground.phase }, { on := 12, ground := Ground.phase }], guard := none }) rfl (by kernel_rfl) (by rfl) (.tmp 4) (.tmp 14) rfl (g12) 0 0 rfl [0] yy rfl rfl RZ12_13.out (show 0 < 1 by omega) rfl ?_
          intro W14 hr14 hg14 hz14
          simp only [Act.put, List.setIfInBounds_toArray, List.set_cons_zero, List.set_cons_succ]
          have Ngp_14 := Lib.hid (Ngp_13.out.grown hg14 (by have := HX12_1.out; simp; omega))
          have RZ11_14 := Lib.hid (RZ11_13.out.grown hg14 (by have := HX12_2.out; simp; omega))
          have RZ12_14 : Hid (RAt W14 g12 [yy]) := Lib.hid hr14
          have HF_14 : Hid (Below w.heap.size w W14) := Lib.hid (HF_13.out.grown hg14 HF_13.out.size (fun r hr => by injection hr with hr; have := (show w.heap.size ≤ g12 from (by have := HG12.out; have := HLO8.out; omega)); omega))
          have HL_14 : Hid (u7.heap.size ≤ W14.heap.size) := Lib.hid (Nat.le_trans HL_13.out hg14.size)
          clear hr14 hg14 hz14 HL_13 Ngp_13 RZ11_13 RZ12_13 HF_13
          refine doneW (by kernel_rfl) ⟨rfl, ?_⟩ _
          exact ⟨g11, g12, Ngp_14.out, RZ11_14.out, RZ12_14.out, HG11.out, HG12.out, (by have := HX12_2.out; omega), HF_14.out, rfl⟩
        · refine wpOp_value (i := 11) (oi := { dst := some 4, op := Op.alloc 23, type := 0, pos := "curve.go:47", after := #[], guard := none }) rfl (by rfl) (exec_alloc 23 rfl (.agg (zbs 32)) zero23 W10) ⟨fun _ => (below_alloc W10 _).mono HL_10.out, ?_⟩
          obtain ⟨W15, hW15, hb15, hz15⟩ := alloc_zero W10
          rw [← hW15]
          obtain ⟨g15, hg15⟩ : ∃ g, g = W10.heap.size := ⟨_, rfl⟩
          rw [← hg15] at hz15 ⊢
          have HG15 : Hid (u7.heap.size ≤ g15) := Lib.hid (by rw [hg15]; exact HL_10.out)
          have HX15_0 : Hid (w.heap.size ≠ g15) := Lib.hid (by have := Ngp_10.out.lt; omega)
          have Ngp_15 := Lib.hid (Ngp_10.out.keep hb15)
          have HF_15 : Hid (Below w.heap.size w W15) := Lib.hid (HF_10.out.trans (hb15.mono HF_10.out.size))
          have HL_15 : Hid (u7.heap.size ≤ W15.heap.size) := Lib.hid (Nat.le_trans HL_10.out hb15.size)
          have RZ15_15 : Hid (RAt W15 g15 [0]) := Lib.hid (zrow (k := 1) hz15)
          clear hb15 hz15 hg15 hW15 HL_10 Ngp_10 HF_10
          simp only [Act.put, List.setIfInBounds_toArray, List.set_cons_zero, List.set_cons_succ]
          refine opW _ _ (i := 10) (oi := { dst := some 3, op := Op.alloc 23, type := 0, pos := "curve.go:47", after := #[], guard := none }) rfl (by kernel_rfl) (by rfl) (exec_alloc 23 rfl (.agg (zbs 32)) zero23 W15) (fun _ => (below_alloc W15 _).mono HL_15.out) ?_
          obtain ⟨W16, hW16, hb16, hz16⟩ := alloc_zero W15
          rw [← hW16]
          obtain ⟨g16, hg16⟩ : ∃ g, g = W15.heap.size := ⟨_, rfl⟩
          rw [← hg16] at hz16 ⊢
          have HG16 : Hid (u7.heap.size ≤ g16) := Lib.hid (by rw [hg16]; exact HL_15.out)
          have HX16_1 : Hid (w.heap.size ≠ g16) := Lib.hid (by have := Ngp_15.out.lt; omega)
          have HX16_2 : Hid (g15 ≠ g16) := Lib.hid (by have := RZ15_15.out.lt; omega)
          have Ngp_16 := Lib.hid (Ngp_15.out.keep hb16)
          have RZ15_16 := Lib.hid (RZ15_15.out.keep hb16)
          have HF_16 : Hid (Below w.heap.size w W16) := Lib.hid (HF_15.out.trans (hb16.mono HF_15.out.size))
          have HL_16 : Hid (u7.heap.size ≤ W16.heap.size) := Lib.hid (Nat.le_trans HL_15.out hb16.size)
          have RZ16_16 : Hid (RAt W16 g16 [0]) := Lib.hid (zrow (k := 1) hz16)
          clear hb16 hz16 hg16 hW16 HL_15 Ngp_15 RZ15_15 HF_15
          simp only [Act.put, List.setIfInBounds_toArray, List.set_cons_zero, List.set_cons_succ]
          refine storeW_F (i := 12) (oi := { dst := none, op := Op.store 23 (Operand.tmp 3) (Operand.tmp 9), type := 0, pos := "curve.go:47", after := #[{ on := 10, ground := Ground.data }, { on := 4, ground := Ground.data }, { on := 9, ground := Ground.chain }, { on := 0, ground := Ground.phase }, { on := 1, ground := Ground.phase }, { on := 2, ground := Ground.phase }, { on := 3, ground := Ground.phase }, { on := 4, ground := Ground.phase }, { on := 5, ground := Ground.textOnly Departure.lateStores }, { on := 6, ground := Ground.textOnly Departure.lateStores }, { on := 7, ground := Ground.textOnly Departure.lateStores }, { on := 8, ground := Ground.textOnly Departure.lateStores }, { on := 9, ground := Ground.textOnly Departure.lateStoresUnsure }, { on := 10, ground := Ground.phase }, { on := 11, ground := Ground.phase }], guard := none }) rfl (by kernel_rfl) (by rfl) (.tmp 3) (.tmp 9) rfl (g16) 0 0 rfl [0] xx rfl rfl RZ16_16.out (show 0 < 1 by omega) rfl ?_
          intro W17 hr17 hg17 hz17
          simp only [Act.put, List.setIfInBounds_toArray, List.set_cons_zero, List.set_cons_succ]
          have Ngp_17 := Lib.hid (Ngp_16.out.grown hg17 (by have := HX16_1.out; simp; omega))
          have RZ15_17 := Lib.hid (RZ15_16.out.grown hg17 (by have := HX16_2.out; simp; omega))
          have RZ16_17 : Hid (RAt W17 g16 [xx]) := Lib.hid hr17
          have HF_17 : Hid (Below w.heap.size w W17) := Lib.hid (HF_16.out.grown hg17 HF_16.out.size (fun r hr => by injection hr with hr; have := (show w.heap.size ≤ g16 from (by have := HG16.out; have := HLO8.out; omega)); omega))
          have HL_17 : Hid (u7.heap.size ≤ W17.heap.size) := Lib.hid (Nat.le_trans HL_16.out hg17.size)
          clear hr17 hg17 hz17 HL_16 Ngp_16 RZ15_16 RZ16_16 HF_16
          refine storeW_F (i := 13) (oi := { dst := none, op := Op.store 23 (Operand.tmp 4) (Operand.tmp 14), type := 0, pos := "curve.go:47", after := #[{ on := 11, ground := Ground.data }, { on := 9, ground := Ground.data }, { on := 12, ground := Ground.chain }, { on := 0, ground := Ground.phase }, { on := 1, ground := Ground.phase }, { on := 2, ground := Ground.phase }, { on := 3, ground := Ground.phase }, { on := 4, ground := Ground.phase }, { on := 5, ground := Ground.phase }, { on := 6, ground := Ground.phase }, { on := 7, ground := Ground.phase }, { on := 8, ground := Ground.phase }, { on := 9, ground := Ground.phase }, { on := 10, ground := Ground.phase }, { on := 11, ground := Ground.phase }, { on := 12, ground := Ground.phase }], guard := none }) rfl (by kernel_rfl) (by rfl) (.tmp 4) (.tmp 14) rfl (g15) 0 0 rfl [0] yy rfl rfl RZ15_17.out (show 0 < 1 by omega) rfl ?_
          intro W18 hr18 hg18 hz18
          simp only [Act.put, List.setIfInBounds_toArray, List.set_cons_zero, List.set_cons_succ]
          have Ngp_18 := Lib.hid (Ngp_17.out.grown hg18 (by have := HX15_0.out; simp; omega))
          have RZ15_18 : Hid (RAt W18 g15 [yy]) := Lib.hid hr18
          have RZ16_18 := Lib.hid (RZ16_17.out.grown hg18 (by have := HX16_2.out; simp; omega))
          have HF_18 : Hid (Below w.heap.size w W18) := Lib.hid (HF_17.out.grown hg18 HF_17.out.size (fun r hr => by injection hr with hr; have := (show w.heap.size ≤ g15 from (by have := HG15.out; have := HLO8.out; omega)); omega))
          have HL_18 : Hid (u7.heap.size ≤ W18.heap.size) := Lib.hid (Nat.le_trans HL_17.out hg18.size)
          clear hr18 hg18 hz18 HL_17 Ngp_17 RZ15_17 RZ16_17 HF_17
          refine doneW (by kernel_rfl) ⟨rfl, ?_⟩ _
          exact ⟨g16, g15, Ngp_18.out, RZ16_18.out, RZ15_18.out, HG16.out, HG15.out, (by have := HX16_2.out; omega), HF_18.out, rfl⟩
      · refine wpOp_value (i := 10) (oi := { dst := some 3, op := Op.alloc 23, type := 0, pos := "curve.go:47", after := #[], guard := none }) rfl (by rfl) (exec_alloc 23 rfl (.agg (zbs 32)) zero23 W9) ⟨fun _ => (below_alloc W9 _).mono HL_9.out, ?_⟩
        obtain ⟨W19, hW19, hb19, hz19⟩ := alloc_zero W9
        rw [← hW19]
        obtain ⟨g19, hg19⟩ : ∃ g, g = W9.heap.size := ⟨_, rfl⟩
        rw [← hg19] at hz19 ⊢
        have HG19 : Hid (u7.heap.size ≤ g19) := Lib.hid (by rw [hg19]; exact HL_9.out)
        have HX19_0 : Hid (w.heap.size ≠ g19) := Lib.hid (by have := Ngp_9.out.lt; omega)
        have Ngp_19 := Lib.hid (Ngp_9.out.keep hb19)
        have HF_19 : Hid (Below w.heap.size w W19) := Lib.hid (HF_9.out.trans (hb19.mono HF_9.out.size))
        have HL_19 : Hid (u7.heap.size ≤ W19.heap.size) := Lib.hid (Nat.le_trans HL_9.out hb19.size)
        have RZ19_19 : Hid (RAt W19 g19 [0]) := Lib.hid (zrow (k := 1) hz19)
        clear hb19 hz19 hg19 hW19 HL_9 Ngp_9 HF_9
        simp only [Act.put, List.setIfInBounds_toArray, List.set_cons_zero, List.set_cons_succ]
        refine eachW [9, 11] (by kernel_rfl) (by simp) ?_
        intro k hk
        simp only [List.mem_cons, List.not_mem_nil, or_false] at hk
        rcases hk with rfl | rfl
        · refine wpOp_call (i := 9) (oi := { dst := some 14, op := Op.call { callee := Callee.value (Operand.func 25), args := #[Operand.tmp 11, Operand.tmp 13], argTypes := #[23, 23] }, type := 23, pos := "curve.go:47", after := #[{ on := 6, ground := Ground.data }, { on := 8, ground := Ground.data }, { on := 4, ground := Ground.chain }], guard := none }) rfl (by rfl) (exec_callL 25 [.tmp 11, .tmp 13] #[23, 23] rfl [vN y, vN y] rfl (CG25 _)) ((C1.out W19).mono ?_)
          rintro e20 W20 ⟨rfl, hb20⟩
          refine ⟨_, rfl, fun _ => hb20.mono HL_19.out, ?_⟩
          have Ngp_20 := Lib.hid (Ngp_19.out.keep hb20)
          have RZ19_20 := Lib.hid (RZ19_19.out.keep hb20)
          have HF_20 : Hid (Below w.heap.size w W20) := Lib.hid (HF_19.out.trans (hb20.mono HF_19.out.size))
          have HL_20 : Hid (u7.heap.size ≤ W20.heap.size) := Lib.hid (Nat.le_trans HL_19.out hb20.size)
          clear hb20 HL_19 Ngp_19 RZ19_19 HF_19
          simp only [Act.put, List.setIfInBounds_toArray, List.set_cons_zero, List.set_cons_succ]
          refine opW _ _ (i := 11) (oi := { dst := some 4, op := Op.alloc 23, type := 0, pos := "curve.go:47", after := #[], guard := none }) rfl (by kernel_rfl) (by rfl) (exec_alloc 23 rfl (.agg (zbs 32)) zero23 W20) (fun _ => (below_alloc W20 _).mono HL_20.out) ?_
          obtain ⟨W21, hW21, hb21, hz21⟩ := alloc_zero W20
          rw [← hW21]
          obtain ⟨g21, hg21⟩ : ∃ g, g = W20.heap.size := ⟨_, rfl⟩
          rw [← hg21] at hz21 ⊢
          have HG21 : Hid (u7.heap.size ≤ g21) := Lib.hid (by rw [hg21]; exact HL_20.out)
          have HX21_1 : Hid (w.heap.size ≠ g21) := Lib.hid (by have := Ngp_20.out.lt; omega)
          have HX21_2 : Hid (g19 ≠ g21) := Lib.hid (by have := RZ19_20.out.lt; omega)
          have Ngp_21 := Lib.hid (Ngp_20.out.keep hb21)
          have RZ19_21 := Lib.hid (RZ19_20.out.keep hb21)
          have HF_21 : Hid (Below w.heap.size w W21) := Lib.hid (HF_20.out.trans (hb21.mono HF_20.out.size))
          have HL_21 : Hid (u7.heap.size ≤ W21.heap.size) := Lib.hid (Nat.le_trans HL_20.out hb21.size)
          have RZ21_21 : Hid (RAt W21 g21 [0]) := Lib.hid (zrow (k := 1) hz21)
          clear hb21 hz21 hg21 hW21 HL_20 Ngp_20 RZ19_20 HF_20
          simp only [Act.put, List.setIfInBounds_toArray, List.set_cons_zero, List.set_cons_succ]
          refine storeW_F (i := 12) (oi := { dst := none, op := Op.store 23 (Operand.tmp 3) (Operand.tmp 9), type := 0, pos := "curve.go:47", after := #[{ on := 10, ground := Ground.data }, { on := 4, ground := Ground.data }, { on := 9, ground := Ground.chain }, { on := 0, ground := Ground.phase }, { on := 1, ground := Ground.phase }, { on := 2, ground := Ground.phase }, { on := 3, ground := Ground.phase }, { on := 4, ground := Ground.phase }, { on := 5, ground := Ground.textOnly Departure.lateStores }, { on := 6, ground := Ground.textOnly Departure.lateStores }, { on := 7, ground := Ground.textOnly Departure.lateStores }, { on := 8, ground := Ground.textOnly Departure.lateStores }, { on := 9, ground := Ground.textOnly Departure.lateStoresUnsure }, { on := 10, ground := Ground.phase }, { on := 11, ground := Ground.phase }], guard := none }) rfl (by kernel_rfl) (by rfl) (.tmp 3) (.tmp 9) rfl (g19) 0 0 rfl [0] xx rfl rfl RZ19_21.out (show 0 < 1 by omega) rfl ?_
          intro W22 hr22 hg22 hz22
          simp only [Act.put, List.setIfInBounds_toArray, List.set_cons_zero, List.set_cons_succ]
          have Ngp_22 := Lib.hid (Ngp_21.out.grown hg22 (by have := HX19_0.out; simp; omega))
          have RZ19_22 : Hid (RAt W22 g19 [xx]) := Lib.hid hr22
          have RZ21_22 := Lib.hid (RZ21_21.out.grown hg22 (by have := HX21_2.out; simp; omega))
          have HF_22 : Hid (Below w.heap.size w W22) := Lib.hid (HF_21.out.grown hg22 HF_21.out.size (fun r hr => by injection hr with hr; have := (show w.heap.size ≤ g19 from (by have := HG19.out; have := HLO8.out; omega)); omega))
          have HL_22 : Hid (u7.heap.size ≤ W22.heap.size) := Lib.hid (Nat.le_trans HL_21.out hg22.size)
          clear hr22 hg22 hz22 HL_21 Ngp_21 RZ19_21 RZ21_21 HF_21
          refine storeW_F (i := 13) (oi := { dst := none, op := Op.store 23 (Operand.tmp 4) (Operand.tmp 14), type := 0, pos := "curve.go:47", after := #[{ on := 11, ground := Ground.data }, { on := 9, ground := Ground.data }, { on := 12, ground := Ground.chain }, { on := 0, ground := Ground.phase }, { on := 1, ground := Ground.phase }, { on := 2, ground := Ground.phase }, { on := 3, ground := Ground.phase }, { on := 4, ground := Ground.phase }, { on := 5, ground := Ground.phase }, { on := 6, ground := Ground.phase }, { on := 7, ground := Ground.phase }, { on := 8, ground := Ground.phase }, { on := 9, ground := Ground.phase }, { on := 10, ground := Ground.phase }, { on := 11, ground := Ground.phase }, { on := 12, ground := Ground.phase }], guard := none }) rfl (by kernel_rfl) (by rfl) (.tmp 4) (.tmp 14) rfl (g21) 0 0 rfl [0] yy rfl rfl RZ21_22.out (show 0 < 1 by omega) rfl ?_
          intro W23 hr23 hg23 hz23
          simp only [Act.put, List.setIfInBounds_toArray, List.set_cons_zero, List.set_cons_succ]
          have Ngp_23 := Lib.hid (Ngp_22.out.grown hg23 (by have := HX21_1.out; simp; omega))
          have RZ19_23 := Lib.hid (RZ19_22.out.grown hg23 (by have := HX21_2.out; simp; omega))
          have RZ21_23 : Hid (RAt W23 g21 [yy]) := Lib.hid hr23
          have HF_23 : Hid (Below w.heap.size w W23) := Lib.hid (HF_22.out.grown hg23 HF_22.out.size (fun r hr => by injection hr with hr; have := (show w.heap.size ≤ g21 from (by have := HG21.out; have := HLO8.out; omega)); omega))
          have HL_23 : Hid (u7.heap.size ≤ W23.heap.size) := Lib.hid (Nat.le_trans HL_22.out hg23.size)
          clear hr23 hg23 hz23 HL_22 Ngp_22 RZ19_22 RZ21_22 HF_22
          refine doneW (by kernel_rfl) ⟨rfl, ?_⟩ _
          exact ⟨g19, g21, Ngp_23.out, RZ19_23.out, RZ21_23.out, HG19.out, HG21.out, (by have := HX21_2.out; omega), HF_23.out, rfl⟩
        · refine wpOp_value (i := 11) (oi := { dst := some 4, op := Op.alloc 23, type := 0, pos := "curve.go:47", after := #[], guard := none }) rfl (by rfl) (exec_alloc 23 rfl (.agg (zbs 32)) zero23 W19) ⟨fun _ => (below_alloc W19 _).mono HL_19.out, ?_⟩
          obtain ⟨W24, hW24, hb24, hz24⟩ := alloc_zero W19
          rw [← hW24]
          obtain ⟨g24, hg24⟩ : ∃ g, g = W19.heap.size := ⟨_, rfl⟩
          rw [← hg24] at hz24 ⊢
          have HG24 : Hid (u7.heap.size ≤ g24) := Lib.hid (by rw [hg24]; exact HL_19.out)
          have HX24_1 : Hid (w.heap.size ≠ g24) := Lib.hid (by have := Ngp_19.out.lt; omega)
          have HX24_2 : Hid (g19 ≠ g24) := Lib.hid (by have := RZ19_19.out.lt; omega)
          have Ngp_24 := Lib.hid (Ngp_19.out.keep hb24)
          have RZ19_24 := Lib.hid (RZ19_19.out.keep hb24)
          have HF_24 : Hid (Below w.heap.size w W24) := Lib.hid (HF_19.out.trans (hb24.mono HF_19.out.size))
          have HL_24 : Hid (u7.heap.size ≤ W24.heap.size) := Lib.hid (Nat.le_trans HL_19.out hb24.size)
          have RZ24_24 : Hid (RAt W24 g24 [0]) := Lib.hid (zrow (k := 1) hz24)
          clear hb24 hz24 hg24 hW24 HL_19 Ngp_19 RZ19_19 HF_19
          simp only [Act.put, List.setIfInBounds_toArray, List.set_cons_zero, List.set_cons_succ]
          refine callW (i := 9) (oi := { dst := some 14, op := Op.call { callee := Callee.value (Operand.func 25), args := #[Operand.tmp 11, Operand.tmp 13], argTypes := #[23, 23] }, type := 23, pos := "curve.go:47", after := #[{ on := 6, ground := Ground.data }, { on := 8, ground := Ground.data }, { on := 4, ground := Ground.chain }], guard := none }) rfl (by kernel_rfl) (by rfl) (exec_callL 25 [.tmp 11, .tmp 13] #[23, 23] rfl [vN y, vN y] rfl (CG25 _)) ((C1.out W24).mono ?_)
          rintro e25 W25 ⟨rfl, hb25⟩
          refine ⟨_, rfl, fun _ => hb25.mono HL_24.out, ?_⟩
          have Ngp_25 := Lib.hid (Ngp_24.out.keep hb25)
          have RZ19_25 := Lib.hid (RZ19_24.out.keep hb25)
          have RZ24_25 := Lib.hid (RZ24_24.out.keep hb25)
          have HF_25 : Hid (Below w.heap.size w W25) := Lib.hid (HF_24.out.trans (hb25.mono HF_24.out.size))
          have HL_25 : Hid (u7.heap.size ≤ W25.heap.size) := Lib.hid (Nat.le_trans HL_24.out hb25.size)
          clear hb25 HL_24 Ngp_24 RZ19_24 RZ24_24 HF_24
          simp only [Act.put, List.setIfInBounds_toArray, List.set_cons_zero, List.set_cons_succ]
          refine storeW_F (i := 12) (oi := { dst := none, op := Op.store 23 (Operand.tmp 3) (Operand.tmp 9), type := 0, pos := "curve.go:47", after := #[{ on := 10, ground := Ground.data }, { on := 4, ground := Ground.data }, { on := 9, ground := Ground.chain }, { on := 0, ground := Ground.phase }, { on := 1, ground := Ground.phase }, { on := 2, ground := Ground.phase }, { on := 3, ground := Ground.phase }, { on := 4, ground := Ground.phase }, { on := 5, ground := Ground.textOnly Departure.lateStores }, { on := 6, ground := Ground.textOnly Departure.lateStores }, { on := 7, ground := Ground.textOnly Departure.lateStores }, { on := 8, ground := Ground.textOnly Departure.lateStores }, { on := 9, ground := Ground.textOnly Departure.lateStoresUnsure }, { on := 10, ground := Ground.phase }, { on := 11, ground := Ground.phase }], guard := none }) rfl (by kernel_rfl) (by rfl) (.tmp 3) (.tmp 9) rfl (g19) 0 0 rfl [0] xx rfl rfl RZ19_25.out (show 0 < 1 by omega) rfl ?_
          intro W26 hr26 hg26 hz26
          simp only [Act.put, List.setIfInBounds_toArray, List.set_cons_zero, List.set_cons_succ]
          have Ngp_26 := Lib.hid (Ngp_25.out.grown hg26 (by have := HX19_0.out; simp; omega))
          have RZ19_26 : Hid (RAt W26 g19 [xx]) := Lib.hid hr26
          have RZ24_26 := Lib.hid (RZ24_25.out.grown hg26 (by have := HX24_2.out; simp; omega))
          have HF_26 : Hid (Below w.heap.size w W26) := Lib.hid (HF_25.out.grown hg26 HF_25.out.size (fun r hr => by injection hr with hr; have := (show w.heap.size ≤ g19 from (by have := HG19.out; have := HLO8.out; omega)); omega))
          have HL_26 : Hid (u7.heap.size ≤ W26.heap.size) := Lib.hid (Nat.le_trans HL_25.out hg26.size)
          clear hr26 hg26 hz26 HL_25 Ngp_25 RZ19_25 RZ24_25 HF_25
          refine storeW_F (i := 13) (oi := { dst := none, op := Op.store 23 (Operand.tmp 4) (Operand.tmp 14), type := 0, pos := "curve.go:47", after := #[{ on := 11, ground := Ground.data }, { on := 9, ground := Ground.data }, { on := 12, ground := Ground.chain }, { on := 0, ground := Ground.phase }, { on := 1, ground := Ground.phase }, { on := 2, ground := Ground.phase }, { on := 3, ground := Ground.phase }, { on := 4, ground := Ground.phase }, { on := 5, ground := Ground.phase }, { on := 6, ground := Ground.phase }, { on := 7, ground := Ground.phase }, { on := 8, ground := Ground.phase }, { on := 9, ground := Ground.phase }, { on := 10, ground := Ground.phase }, { on := 11, ground := Ground.phase }, { on := 12, ground := Ground.phase }], guard := none }) rfl (by kernel_rfl) (by rfl) (.tmp 4) (.tmp 14) rfl (g24) 0 0 rfl [0] yy rfl rfl RZ24_26.out (show 0 < 1 by omega) rfl ?_
          intro W27 hr27 hg27 hz27
          simp only [Act.put, List.setIfInBounds_toArray, List.set_cons_zero, List.set_cons_succ]
          have Ngp_27 := Lib.hid (Ngp_26.out.grown hg27 (by have := HX24_1.out; simp; omega))
          have RZ19_27 := Lib.hid (RZ19_26.out.grown hg27 (by have := HX24_2.out; simp; omega))
          have RZ24_27 : Hid (RAt W27 g24 [yy]) := Lib.hid hr27
          have HF_27 : Hid (Below w.heap.size w W27) := Lib.hid (HF_26.out.grown hg27 HF_26.out.size (fun r hr => by injection hr with hr; have := (show w.heap.size ≤ g24 from (by have := HG24.out; have := HLO8.out; omega)); omega))
          have HL_27 : Hid (u7.heap.size ≤ W27.heap.size) := Lib.hid (Nat.le_trans HL_26.out hg27.size)
          clear hr27 hg27 hz27 HL_26 Ngp_26 RZ19_26 RZ24_26 HF_26
          refine doneW (by kernel_rfl) ⟨rfl, ?_⟩ _
          exact ⟨g19, g24, Ngp_27.out, RZ19_27.out, RZ24_27.out, HG19.out, HG24.out, (by have := HX24_2.out; omega), HF_27.out, rfl⟩
      · refine wpOp_value (i := 11) (oi := { dst := some 4, op := Op.alloc 23, type := 0, pos := "curve.go:47", after := #[], guard := none }) rfl (by rfl) (exec_alloc 23 rfl (.agg (zbs 32)) zero23 W9) ⟨fun _ => (below_alloc W9 _).mono HL_9.out, ?_⟩
        obtain ⟨W28, hW28, hb28, hz28⟩ := alloc_zero W9
        rw [← hW28]
        obtain ⟨g28, hg28⟩ : ∃ g, g = W9.heap.size := ⟨_, rfl⟩
        rw [← hg28] at hz28 ⊢
        have HG28 : Hid (u7.heap.size ≤ g28) := Lib.hid (by rw [hg28]; exact HL_9.out)
        have HX28_0 : Hid (w.heap.size ≠ g28) := Lib.hid (by have := Ngp_9.out.lt; omega)
        have Ngp_28 := Lib.hid (Ngp_9.out.keep hb28)
        have HF_28 : Hid (Below w.heap.size w W28) := Lib.hid (HF_9.out.trans (hb28.mono HF_9.out.size))
        have HL_28 : Hid (u7.heap.size ≤ W28.heap.size) := Lib.hid (Nat.le_trans HL_9.out hb28.size)
        have RZ28_28 : Hid (RAt W28 g28 [0]) := Lib.hid (zrow (k := 1) hz28)
        clear hb28 hz28 hg28 hW28 HL_9 Ngp_9 HF_9
        simp only [Act.put, List.setIfInBounds_toArray, List.set_cons_zero, List.set_cons_succ]
        refine eachW [9, 10] (by kernel_rfl) (by simp) ?_
        intro k hk
        simp only [List.mem_cons, List.not_mem_nil, or_false] at hk
        rcases hk with rfl | rfl
        · refine wpOp_call (i := 9) (oi := { dst := some 14, op := Op.call { callee := Callee.value (Operand.func 25), args := #[Operand.tmp 11, Operand.tmp 13], argTypes := #[23, 23] }, type := 23, pos := "curve.go:47", after := #[{ on := 6, ground := Ground.data }, { on := 8, ground := Ground.data }, { on := 4, ground := Ground.chain }], guard := none }) rfl (by rfl) (exec_callL 25 [.tmp 11, .tmp 13] #[23, 23] rfl [vN y, vN y] rfl (CG25 _)) ((C1.out W28).mono ?_)
          rintro e29 W29 ⟨rfl, hb29⟩
          refine ⟨_, rfl, fun _ => hb29.mono HL_28.out, ?_⟩
          have Ngp_29 := Lib.hid (Ngp_28.out.keep hb29)
          have RZ28_29 := Lib.hid (RZ28_28.out.keep hb29)
          have HF_29 : Hid (Below w.heap.size w W29) := Lib.hid (HF_28.out.trans (hb29.mono HF_28.out.size))
          have HL_29 : Hid (u7.heap.size ≤ W29.heap.size) := Lib.hid (Nat.le_trans HL_28.out hb29.size)
          clear hb29 HL_28 Ngp_28 RZ28_28 HF_28
          simp only [Act.put, List.setIfInBounds_toArray, List.set_cons_zero, List.set_cons_succ]
          refine opW _ _ (i := 10) (oi := { dst := some 3, op := Op.alloc 23, type := 0, pos := "curve.go:47", after := #[], guard := none }) rfl (by kernel_rfl) (by rfl) (exec_alloc 23 rfl (.agg (zbs 32)) zero23 W29) (fun _ => (below_alloc W29 _).mono HL_29.out) ?_
          obtain ⟨W30, hW30, hb30, hz30⟩ := alloc_zero W29
          rw [← hW30]
          obtain ⟨g30, hg30⟩ : ∃ g, g = W29.heap.size := ⟨_, rfl⟩
          rw [← hg30] at hz30 ⊢
          have HG30 : Hid (u7.heap.size ≤ g30) := Lib.hid (by rw [hg30]; exact HL_29.out)
          have HX30_1 : Hid (w.heap.size ≠ g30) := Lib.hid (by have := Ngp_29.out.lt; omega)
          have HX30_2 : Hid (g28 ≠ g30) := Lib.hid (by have := RZ28_29.out.lt; omega)
          have Ngp_30 := Lib.hid (Ngp_29.out.keep hb30)
          have RZ28_30 := Lib.hid (RZ28_29.out.keep hb30)
          have HF_30 : Hid (Below w.heap.size w W30) := Lib.hid (HF_29.out.trans (hb30.mono HF_29.out.size))
          have HL_30 : Hid (u7.heap.size ≤ W30.heap.size) := Lib.hid (Nat.le_trans HL_29.out hb30.size)
          have RZ30_30 : Hid (RAt W30 g30 [0]) := Lib.hid (zrow (k := 1) hz30)
          clear hb30 hz30 hg30 hW30 HL_29 Ngp_29 RZ28_29 HF_29
          simp only [Act.put, List.setIfInBounds_toArray, List.set_cons_zero, List.set_cons_succ]
          refine storeW_F (i := 12) (oi := { dst := none, op := Op.store 23 (Operand.tmp 3) (Operand.tmp 9), type := 0, pos := "curve.go:47", after := #[{ on := 10, ground := Ground.data }, { on := 4, ground := Ground.data }, { on := 9, ground := Ground.chain }, { on := 0, ground := Ground.phase }, { on := 1, ground := Ground.phase }, { on := 2, ground := Ground.phase }, { on := 3, ground := Ground.phase }, { on := 4, ground := Ground.phase }, { on := 5, ground := Ground.textOnly Departure.lateStores }, { on := 6, ground := Ground.textOnly Departure.lateStores }, { on := 7, ground := Ground.textOnly Departure.lateStores }, { on := 8, ground := Ground.textOnly Departure.lateStores }, { on := 9, ground := Ground.textOnly Departure.lateStoresUnsure }, { on := 10, ground := Ground.phase }, { on := 11, ground := Ground.phase }], guard := none }) rfl (by kernel_rfl) (by rfl) (.tmp 3) (.tmp 9) rfl (g30) 0 0 rfl [0] xx rfl rfl RZ30_30.out (show 0 < 1 by omega) rfl ?_
          intro W31 hr31 hg31 hz31
          simp only [Act.put, List.setIfInBounds_toArray, List.set_cons_zero, List.set_cons_succ]
          have Ngp_31 := Lib.hid (Ngp_30.out.grown hg31 (by have := HX30_1.out; simp; omega))
          have RZ28_31 := Lib.hid (RZ28_30.out.grown hg31 (by have := HX30_2.out; simp; omega))
          have RZ30_31 : Hid (RAt W31 g30 [xx]) := Lib.hid hr31
          have HF_31 : Hid (Below w.heap.size w W31) := Lib.hid (HF_30.out.grown hg31 HF_30.out.size (fun r hr => by injection hr with hr; have := (show w.heap.size ≤ g30 from (by have := HG30.out; have := HLO8.out; omega)); omega))
          have HL_31 : Hid (u7.heap.size ≤ W31.heap.size) := Lib.hid (Nat.le_trans HL_30.out hg31.size)
          clear hr31 hg31 hz31 HL_30 Ngp_30 RZ28_30 RZ30_30 HF_30
          refine storeW_F (i := 13) (oi := { dst := none, op := Op.store 23 (Operand.tmp 4) (Operand.tmp 14), type := 0, pos := "curve.go:47", after := #[{ on := 11, ground := Ground.data }, { on := 9, ground := Ground.data }, { on := 12, ground := Ground.chain }, { on := 0, ground := Ground.phase }, { on := 1, ground := Ground.phase }, { on := 2, ground := Ground.phase }, { on := 3, ground := Ground.phase }, { on := 4, ground := Ground.phase }, { on := 5, ground := Ground.phase }, { on := 6, ground := Ground.phase }, { on := 7, ground := Ground.phase }, { on := 8, ground := Ground.phase }, { on := 9, ground := Ground.phase }, { on := 10, ground := Ground.phase }, { on := 11, ground := Ground.phase }, { on := 12, ground := Ground.phase }], guard := none }) rfl (by kernel_rfl) (by rfl) (.tmp 4) (.tmp 14) rfl (g28) 0 0 rfl [0] yy rfl rfl RZ28_31.out (show 0 < 1 by omega) rfl ?_
          intro W32 hr32 hg32 hz32
          simp only [Act.put, List.setIfInBounds_toArray, List.set_cons_zero, List.set_cons_succ]
          have Ngp_32 := Lib.hid (Ngp_31.out.grown hg32 (by have := HX28_0.out; simp; omega))
          have RZ28_32 : Hid (RAt W32 g28 [yy]) := Lib.hid hr32
          have RZ30_32 := Lib.hid (RZ30_31.out.grown hg32 (by have := HX30_2.out; simp; omega))
          have HF_32 : Hid (Below w.heap.size w W32) := Lib.hid (HF_31.out.grown hg32 HF_31.out.size (fun r hr => by injection hr with hr; have := (show w.heap.size ≤ g28 from (by have := HG28.out; have := HLO8.out; omega)); omega))
          have HL_32 : Hid (u7.heap.size ≤ W32.heap.size) := Lib.hid (Nat.le_trans HL_31.out hg32.size)
          clear hr32 hg32 hz32 HL_31 Ngp_31 RZ28_31 RZ30_31 HF_31
          refine doneW (by kernel_rfl) ⟨rfl, ?_⟩ _
          exact ⟨g30, g28, Ngp_32.out, RZ30_32.out, RZ28_32.out, HG30.out, HG28.out, (by have := HX30_2.out; omega), HF_32.out, rfl⟩
        · refine wpOp_value (i := 10) (oi := { dst := some 3, op := Op.alloc 23, type := 0, pos := "curve.go:47", after := #[], guard := none }) rfl (by rfl) (exec_alloc 23 rfl (.agg (zbs 32)) zero23 W28) ⟨fun _ => (below_alloc W28 _).mono HL_28.out, ?_⟩
          obtain ⟨W33, hW33, hb33, hz33⟩ := alloc_zero W28
          rw [← hW33]
          obtain ⟨g33, hg33⟩ : ∃ g, g = W28.heap.size := ⟨_, rfl⟩
          rw [← hg33] at hz33 ⊢
          have HG33 : Hid (u7.heap.size ≤ g33) := Lib.hid (by rw [hg33]; exact HL_28.out)
          have HX33_1 : Hid (w.heap.size ≠ g33) := Lib.hid (by have := Ngp_28.out.lt; omega)
          have HX33_2 : Hid (g28 ≠ g33) := Lib.hid (by have := RZ28_28.out.lt; omega)
          have Ngp_33 := Lib.hid (Ngp_28.out.keep hb33)
          have RZ28_33 := Lib.hid (RZ28_28.out.keep hb33)
          have HF_33 : Hid (Below w.heap.size w W33) := Lib.hid (HF_28.out.trans (hb33.mono HF_28.out.size))
          have HL_33 : Hid (u7.heap.size ≤ W33.heap.size) := Lib.hid (Nat.le_trans HL_28.out hb33.size)
          have RZ33_33 : Hid (RAt W33 g33 [0]) := Lib.hid (zrow (k := 1) hz33)
          clear hb33 hz33 hg33 hW33 HL_28 Ngp_28 RZ28_28 HF_28
          simp only [Act.put, List.setIfInBounds_toArray, List.set_cons_zero, List.set_cons_succ]
          refine callW (i := 9) (oi := { dst := some 14, op := Op.call { callee := Callee.value (Operand.func 25), args := #[Operand.tmp 11, Operand.tmp 13], argTypes := #[23, 23] }, type := 23, pos := "curve.go:47", after := #[{ on := 6, ground := Ground.data }, { on := 8, ground := Ground.data }, { on := 4, ground := Ground.chain }], guard := none }) rfl (by kernel_rfl) (by rfl) (exec_callL 25 [.tmp 11, .tmp 13] #[23, 23] rfl [vN y, vN y] rfl (CG25 _)) ((C1.out W33).mono ?_)
          rintro e34 W34 ⟨rfl, hb34⟩
          refine ⟨_, rfl, fun _ => hb34.mono HL_33.out, ?_⟩
          have Ngp_34 := Lib.hid (Ngp_33.out.keep hb34)
          have RZ28_34 := Lib.hid (RZ28_33.out.keep hb34)
          have RZ33_34 := Lib.hid (RZ33_33.out.keep hb34)
          have HF_34 : Hid (Below w.heap.size w W34) := Lib.hid (HF_33.out.trans (hb34.mono HF_33.out.size))
          have HL_34 : Hid (u7.heap.size ≤ W34.heap.size) := Lib.hid (Nat.le_trans HL_33.out hb34.size)
          clear hb34 HL_33 Ngp_33 RZ28_33 RZ33_33 HF_33
          simp only [Act.put, List.setIfInBounds_toArray, List.set_cons_zero, List.set_cons_succ]
          refine storeW_F (i := 12) (oi := { dst := none, op := Op.store 23 (Operand.tmp 3) (Operand.tmp 9), type := 0, pos := "curve.go:47", after := #[{ on := 10, ground := Ground.data }, { on := 4, ground := Ground.data }, { on := 9, ground := Ground.chain }, { on := 0, ground := Ground.phase }, { on := 1, ground := Ground.phase }, { on := 2, ground := Ground.phase }, { on := 3, ground := Ground.phase }, { on := 4, ground := Ground.phase }, { on := 5, ground := Ground.textOnly Departure.lateStores }, { on := 6, ground := Ground.textOnly Departure.lateStores }, { on := 7, ground := Ground.textOnly Departure.lateStores }, { on := 8, ground := Ground.textOnly Departure.lateStores }, { on := 9, ground := Ground.textOnly Departure.lateStoresUnsure }, { on := 10, ground := Ground.phase }, { on := 11, ground := Ground.phase }], guard := none }) rfl (by kernel_rfl) (by rfl) (.tmp 3) (.tmp 9) rfl (g33) 0 0 rfl [0] xx rfl rfl RZ33_34.out (show 0 < 1 by omega) rfl ?_
          intro W35 hr35 hg35 hz35
          simp only [Act.put, List.setIfInBounds_toArray, List.set_cons_zero, List.set_cons_succ]
          have Ngp_35 := Lib.hid (Ngp_34.out.grown hg35 (by have := HX33_1.out; simp; omega))
          have RZ28_35 := Lib.hid (RZ28_34.out.grown hg35 (by have := HX33_2.out; simp; omega))
          have RZ33_35 : Hid (RAt W35 g33 [xx]) := Lib.hid hr35
          have HF_35 : Hid (Below w.heap.size w W35) := Lib.hid (HF_34.out.grown hg35 HF_34.out.size (fun r hr => by injection hr with hr; have := (show w.heap.size ≤ g33 from (by have := HG33.out; have := HLO8.out; omega)); omega))
          have HL_35 : Hid (u7.heap.size ≤ W35.heap.size) := Lib.hid (Nat.le_trans HL_34.out hg35.size)
          clear hr35 hg35 hz35 HL_34 Ngp_34 RZ28_34 RZ33_34 HF_34
          refine storeW_F (i := 13) (oi := { dst := none, op := Op.store 23 (Operand.tmp 4) (Operand.tmp 14), type := 0, pos := "curve.go:47", after := #[{ on := 11, ground := Ground.data }, { on := 9, ground := Ground.data }, { on := 12, ground := Ground.chain }, { on := 0, ground := Ground.phase }, { on := 1, ground := Ground.phase }, { on := 2, ground := Ground.phase }, { on := 3, ground := Ground.phase }, { on := 4, ground := Ground.phase }, { on := 5, ground := Ground.phase }, { on := 6, ground := Ground.phase }, { on := 7, ground := Ground.phase }, { on := 8, ground := Ground.phase }, { on := 9, ground := Ground.phase }, { on := 10, ground := Ground.phase }, { on := 11, ground := Ground.phase }, { on := 12, ground := Ground.phase }], guard := none }) rfl (by kernel_rfl) (by rfl) (.tmp 4) (.tmp 14) rfl (g28) 0 0 rfl [0] yy rfl rfl RZ28_35.out (show 0 < 1 by omega) rfl ?_
          intro W36 hr36 hg36 hz36
          simp only [Act.put, List.setIfInBounds_toArray, List.set_cons_zero, List.set_cons_succ]
          have Ngp_36 := Lib.hid (Ngp_35.out.grown hg36 (by have := HX28_0.out; simp; omega))
          have RZ28_36 : Hid (RAt W36 g28 [yy]) := Lib.hid hr36
          have RZ33_36 := Lib.hid (RZ33_35.out.grown hg36 (by have := HX33_2.out; simp; omega))
          have HF_36 : Hid (Below w.heap.size w W36) := Lib.hid (HF_35.out.grown hg36 HF_35.out.size (fun r hr => by injection hr with hr; have := (show w.heap.size ≤ g28 from (by have := HG28.out; have := HLO8.out; omega)); omega))
          have HL_36 : Hid (u7.heap.size ≤ W36.heap.size) := Lib.hid (Nat.le_trans HL_35.out hg36.size)
          clear hr36 hg36 hz36 HL_35 Ngp_35 RZ28_35 RZ33_35 HF_35
          refine doneW (by kernel_rfl) ⟨rfl, ?_⟩ _
          exact ⟨g33, g28, Ngp_36.out, RZ33_36.out, RZ28_36.out, HG33.out, HG28.out, (by have := HX33_2.out; omega), HF_36.out, rfl⟩
    · refine wpOp_value (i := 10) (oi := { dst := some 3, op := Op.alloc 23, type := 0, pos := "curve.go:47", after := #[], guard := none }) rfl (by rfl) (exec_alloc 23 rfl (.agg (zbs 32)) zero23 D8) ⟨fun _ => (below_alloc D8 _).mono HL_8.out, ?_⟩
      obtain ⟨W37, hW37, hb37, hz37⟩ := alloc_zero D8
      rw [← hW37]
      obtain ⟨g37, hg37⟩ : ∃ g, g = D8.heap.size := ⟨_, rfl⟩
      rw [← hg37] at hz37 ⊢
      have HG37 : Hid (u7.heap.size ≤ g37) := Lib.hid (by rw [hg37]; exact HL_8.out)
      have HX37_0 : Hid (w.heap.size ≠ g37) := Lib.hid (by have := Ngp_8.out.lt; omega)
      have Ngp_37 := Lib.hid (Ngp_8.out.keep hb37)
      have HF_37 : Hid (Below w.heap.size w W37) := Lib.hid (HF_8.out.trans (hb37.mono HF_8.out.size))
      have HL_37 : Hid (u7.heap.size ≤ W37.heap.size) := Lib.hid (Nat.le_trans HL_8.out hb37.size)
      have RZ37_37 : Hid (RAt W37 g37 [0]) := Lib.hid (zrow (k := 1) hz37)
      clear hb37 hz37 hg37 hW37 HL_8 Ngp_8 HF_8
      simp only [Act.put, List.setIfInBounds_toArray, List.set_cons_zero, List.set_cons_succ]
      refine eachW [4, 11] (by kernel_rfl) (by simp) ?_
      intro k hk
      simp only [List.mem_cons, List.not_mem_nil, or_false] at hk
      rcases hk with rfl | rfl
      · refine wpOp_call (i := 4) (oi := { dst := some 9, op := Op.call { callee := Callee.value (Operand.func 25), args := #[Operand.tmp 6, Operand.tmp 8], argTypes := #[23, 23] }, type := 23, pos := "curve.go:47", after := #[{ on := 1, ground := Ground.data }, { on := 3, ground := Ground.data }], guard := none }) rfl (by rfl) (exec_callL 25 [.tmp 6, .tmp 8] #[23, 23] rfl [vN x, vN x] rfl (CG25 _)) ((C0.out W37).mono ?_)
        rintro e38 W38 ⟨rfl, hb38⟩
        refine ⟨_, rfl, fun _ => hb38.mono HL_37.out, ?_⟩
        have Ngp_38 := Lib.hid (Ngp_37.out.keep hb38)
        have RZ37_38 := Lib.hid (RZ37_37.out.keep hb38)
        have HF_38 : Hid (Below w.heap.size w W38) := Lib.hid (HF_37.out.trans (hb38.mono HF_37.out.size))
        have HL_38 : Hid (u7.heap.size ≤ W38.heap.size) := Lib.hid (Nat.le_trans HL_37.out hb38.size)
        clear hb38 HL_37 Ngp_37 RZ37_37 HF_37
        simp only [Act.put, List.setIfInBounds_toArray, List.set_cons_zero, List.set_cons_succ]
        refine eachW [9, 11] (by kernel_rfl) (by simp) ?_
        intro k hk
        simp only [List.mem_cons, List.not_mem_nil, or_false] at hk
        rcases hk with rfl | rfl
        · refine wpOp_call (i := 9) (oi := { dst := some 14, op := Op.call { callee := Callee.value (Operand.func 25), args := #[Operand.tmp 11, Operand.tmp 13], argTypes := #[23, 23] }, type := 23, pos := "curve.go:47", after := #[{ on := 6, ground := Ground.data }, { on := 8, ground := Ground.data }, { on := 4, ground := Ground.chain }], guard := none }) rfl (by rfl) (exec_callL 25 [.tmp 11, .tmp 13] #[23, 23] rfl [vN y, vN y] rfl (CG25 _)) ((C1.out W38).mono ?_)
          rintro e39 W39 ⟨rfl, hb39⟩
          refine ⟨_, rfl, fun _ => hb39.mono HL_38.out, ?_⟩
          have Ngp_39 := Lib.hid (Ngp_38.out.keep hb39)
          have RZ37_39 := Lib.hid (RZ37_38.out.keep hb39)
          have HF_39 : Hid (Below w.heap.size w W39) := Lib.hid (HF_38.out.trans (hb39.mono HF_38.out.size))
          have HL_39 : Hid (u7.heap.size ≤ W39.heap.size) := Lib.hid (Nat.le_trans HL_38.out hb39.size)
          clear hb39 HL_38 Ngp_38 RZ37_38 HF_38
          simp only [Act.put, List.setIfInBounds_toArray, List.set_cons_zero, List.set_cons_succ]
          refine opW _ _ (i := 11) (oi := { dst := some 4, op := Op.alloc 23, type := 0, pos := "curve.go:47", after := #[], guard := none }) rfl (by kernel_rfl) (by rfl) (exec_alloc 23 rfl (.agg (zbs 32)) zero23 W39) (fun _ => (below_alloc W39 _).mono HL_39.out) ?_
          obtain ⟨W40, hW40, hb40, hz40⟩ := alloc_zero W39
          rw [← hW40]
          obtain ⟨g40, hg40⟩ : ∃ g, g = W39.heap.size := ⟨_, rfl⟩
          rw [← hg40] at hz40 ⊢
          have HG40 : Hid (u7.heap.size ≤ g40) := Lib.hid (by rw [hg40]; exact HL_39.out)
          have HX40_1 : Hid (w.heap.size ≠ g40) := Lib.hid (by have := Ngp_39.out.lt; omega)
          have HX40_2 : Hid (g37 ≠ g40) := Lib.hid (by have := RZ37_39.out.lt; omega)
          have Ngp_40 := Lib.hid (Ngp_39.out.keep hb40)
          have RZ37_40 := Lib.hid (RZ37_39.out.keep hb40)
          have HF_40 : Hid (Below w.heap.size w W40) := Lib.hid (HF_39.out.trans (hb40.mono HF_39.out.size))
          have HL_40 : Hid (u7.heap.size ≤ W40.heap.size) := Lib.hid (Nat.le_trans HL_39.out hb40.size)
          have RZ40_40 : Hid (RAt W40 g40 [0]) := Lib.hid (zrow (k := 1) hz40)
          clear hb40 hz40 hg40 hW40 HL_39 Ngp_39 RZ37_39 HF_39
          simp only [Act.put, List.setIfInBounds_toArray, List.set_cons_zero, List.set_cons_succ]
          refine storeW_F (i := 12) (oi := { dst := none, op := Op.store 23 (Operand.tmp 3) (Operand.tmp 9), type := 0, pos := "curve.go:47", after := #[{ on := 10, ground := Ground.data }, { on := 4, ground := Ground.data }, { on := 9, ground := Ground.chain }, { on := 0, ground := Ground.phase }, { on := 1, ground := Ground.phase }, { on := 2, ground := Ground.phase }, { on := 3, ground := Ground.phase }, { on := 4, ground := Ground.phase }, { on := 5, ground := Ground.textOnly Departure.lateStores }, { on := 6, ground := Ground.textOnly Departure.lateStores }, { on := 7, ground := Ground.textOnly Departure.lateStores }, { on := 8, ground := Ground.textOnly Departure.lateStores }, { on := 9, ground := Ground.textOnly Departure.lateStoresUnsure }, { on := 10, ground := Ground.phase }, { on := 11, ground := Ground.phase }], guard := none }) rfl (by kernel_rfl) (by rfl) (.tmp 3) (.tmp 9) rfl (g37) 0 0 rfl [0] xx rfl rfl RZ37_40.out (show 0 < 1 by omega) rfl ?_
          intro W41 hr41 hg41 hz41
          simp only [Act.put, List.setIfInBounds_toArray, List.set_cons_zero, List.set_cons_succ]
          have Ngp_41 := Lib.hid (Ngp_40.out.grown hg41 (by have := HX37_0.out; simp; omega))
          have RZ37_41 : Hid (RAt W41 g37 [xx]) := Lib.hid hr41
          have RZ40_41 := Lib.hid (RZ40_40.out.grown hg41 (by have := HX40_2.out; simp; omega))
          have HF_41 : Hid (Below w.heap.size w W41) := Lib.hid (HF_40.out.grown hg41 HF_40.out.size (fun r hr => by injection hr with hr; have := (show w.heap.size ≤ g37 from (by have := HG37.out; have := HLO8.out; omega)); omega))
          have HL_41 : Hid (u7.heap.size ≤ W41.heap.size) := Lib.hid (Nat.le_trans HL_40.out hg41.size)
          clear hr41 hg41 hz41 HL_40 Ngp_40 RZ37_40 RZ40_40 HF_40
          refine storeW_F (i := 13) (oi := { dst := none, op := Op.store 23 (Operand.tmp 4) (Operand.tmp 14), type := 0, pos := "curve.go:47", after := #[{ on := 11, ground := Ground.data }, { on := 9, ground := Ground.data }, { on := 12, ground := Ground.chain }, { on := 0, ground := Ground.phase }, { on := 1, ground := Ground.phase }, { on := 2, ground := Ground.phase }, { on := 3, ground := Ground.phase }, { on := 4, ground := Ground.phase }, { on := 5, ground := Ground.phase }, { on := 6, ground := Ground.phase }, { on := 7, ground := Ground.phase }, { on := 8, ground := Ground.phase }, { on := 9, ground := Ground.phase }, { on := 10, ground := Ground.phase }, { on := 11, ground := Ground.phase }, { on := 12, ground := Ground.phase }], guard := none }) rfl (by kernel_rfl) (by rfl) (.tmp 4) (.tmp 14) rfl (g40) 0 0 rfl [0] yy rfl rfl RZ40_41.out (show 0 < 1 by omega) rfl ?_
          intro W42 hr42 hg42 hz42
          simp only [Act.put, List.setIfInBounds_toArray, List.set_cons_zero, List.set_cons_succ]
          have Ngp_42 := Lib.hid (Ngp_41.out.grown hg42 (by have := HX40_1.out; simp; omega))
          have RZ37_42 := Lib.hid (RZ37_41.out.grown hg42 (by have := HX40_2.out; simp; omega))
          have RZ40_42 : Hid (RAt W42 g40 [yy]) := Lib.hid hr42
          have HF_42 : Hid (Below w.heap.size w W42) := Lib.hid (HF_41.out.grown hg42 HF_41.out.size (fun r hr => by injection hr with hr; have := (show w.heap.size ≤ g40 from (by have := HG40.out; have := HLO8.out; omega)); omega))
          have HL_42 : Hid (u7.heap.size ≤ W42.heap.size) := Lib.hid (Nat.le_trans HL_41.out hg42.size)
          clear hr42 hg42 hz42 HL_41 Ngp_41 RZ37_41 RZ40_41 HF_41
          refine doneW (by kernel_rfl) ⟨rfl, ?_⟩ _
          exact ⟨g37, g40, Ngp_42.out, RZ37_42.out, RZ40_42.out, HG37.out, HG40.out, (by have := HX40_2.out; omega), HF_42.out, rfl⟩
        · refine wpOp_value (i := 11) (oi := { dst := some 4, op := Op.alloc 23, type := 0, pos := "curve.go:47", after := #[], guard := none }) rfl (by rfl) (exec_alloc 23 rfl (.agg (zbs 32)) zero23 W38) ⟨fun _ => (below_alloc W38 _).mono HL_38.out, ?_⟩
          obtain ⟨W43, hW43, hb43, hz43⟩ := alloc_zero W38
          rw [← hW43]
          obtain ⟨g43, hg43⟩ : ∃ g, g = W38.heap.size := ⟨_, rfl⟩
          rw [← hg43] at hz43 ⊢
          have HG43 : Hid (u7.heap.size ≤ g43) := Lib.hid (by rw [hg43]; exact HL_38.out)
          have HX43_1 : Hid (w.heap.size ≠ g43) := Lib.hid (by have := Ngp_38.out.lt; omega)
          have HX43_2 : Hid (g37 ≠ g43) := Lib.hid (by have := RZ37_38.out.lt; omega)
          have Ngp_43 := Lib.hid (Ngp_38.out.keep hb43)
          have RZ37_43 := Lib.hid (RZ37_38.out.keep hb43)
          have HF_43 : Hid (Below w.heap.size w W43) := Lib.hid (HF_38.out.trans (hb43.mono HF_38.out.size))
          have HL_43 : Hid (u7.heap.size ≤ W43.heap.size) := Lib.hid (Nat.le_trans HL_38.out hb43.size)
          have RZ43_43 : Hid (RAt W43 g43 [0]) := Lib.hid (zrow (k := 1) hz43)
          clear hb43 hz43 hg43 hW43 HL_38 Ngp_38 RZ37_38 HF_38
          simp only [Act.put, List.setIfInBounds_toArray, List.set_cons_zero, List.set_cons_succ]
          refine callW (i := 9) (oi := { dst := some 14, op := Op.call { callee := Callee.value (Operand.func 25), args := #[Operand.tmp 11, Operand.tmp 13], argTypes := #[23, 23] }, type := 23, pos := "curve.go:47", after := #[{ on := 6, ground := Ground.data }, { on := 8, ground := Ground.data }, { on := 4, ground := Ground.chain }], guard := none }) rfl (by kernel_rfl) (by rfl) (exec_callL 25 [.tmp 11, .tmp 13] #[23, 23] rfl [vN y, vN y] rfl (CG25 _)) ((C1.out W43).mono ?_)
          rintro e44 W44 ⟨rfl, hb44⟩
          refine ⟨_, rfl, fun _ => hb44.mono HL_43.out, ?_⟩
          have Ngp_44 := Lib.hid (Ngp_43.out.keep hb44)
          have RZ37_44 := Lib.hid (RZ37_43.out.keep hb44)
          have RZ43_44 := Lib.hid (RZ43_43.out.keep hb44)
          have HF_44 : Hid (Below w.heap.size w W44) := Lib.hid (HF_43.out.trans (hb44.mono HF_43.out.size))
          have HL_44 : Hid (u7.heap.size ≤ W44.heap.size) := Lib.hid (Nat.le_trans HL_43.out hb44.size)
          clear hb44 HL_43 Ngp_43 RZ37_43 RZ43_43 HF_43
          simp only [Act.put, List.setIfInBounds_toArray, List.set_cons_zero, List.set_cons_succ]
          refine storeW_F (i := 12) (oi := { dst := none, op := Op.store 23 (Operand.tmp 3) (Operand.tmp 9), type := 0, pos := "curve.go:47", after := #[{ on := 10, ground := Ground.data }, { on := 4, ground := Ground.data }, { on := 9, ground := Ground.chain }, { on := 0, ground := Ground.phase }, { on := 1, ground := Ground.phase }, { on := 2, ground := Ground.phase }, { on := 3, ground := Ground.phase }, { on := 4, ground := Ground.phase }, { on := 5, ground := Ground.textOnly Departure.lateStores }, { on := 6, ground := Ground.textOnly Departure.lateStores }, { on := 7, ground := Ground.textOnly Departure.lateStores }, { on := 8, ground := Ground.textOnly Departure.lateStores }, { on := 9, ground := Ground.textOnly Departure.lateStoresUnsure }, { on := 10, ground := Ground.phase }, { on := 11, ground := Ground.phase }], guard := none }) rfl (by kernel_rfl) (by rfl) (.tmp 3) (.tmp 9) rfl (g37) 0 0 rfl [0] xx rfl rfl RZ37_44.out (show 0 < 1 by omega) rfl ?_
          intro W45 hr45 hg45 hz45
          simp only [Act.put, List.setIfInBounds_toArray, List.set_cons_zero, List.set_cons_succ]
          have Ngp_45 := Lib.hid (Ngp_44.out.grown hg45 (by have := HX37_0.out; simp; omega))
          have RZ37_45 : Hid (RAt W45 g37 [xx]) := Lib.hid hr45
          have RZ43_45 := Lib.hid (RZ43_44.out.grown hg45 (by have := HX43_2.out; simp; omega))
          have HF_45 : Hid (Below w.heap.size w W45) := Lib.hid (HF_44.out.grown hg45 HF_44.out.size (fun r hr => by injection hr with hr; have := (show w.heap.size ≤ g37 from (by have := HG37.out; have := HLO8.out; omega)); omega))
          have HL_45 : Hid (u7.heap.size ≤ W45.heap.size) := Lib.hid (Nat.le_trans HL_44.out hg45.size)
          clear hr45 hg45 hz45 HL_44 Ngp_44 RZ37_44 RZ43_44 HF_44
          refine storeW_F (i := 13) (oi := { dst := none, op := Op.store 23 (Operand.tmp 4) (Operand.tmp 14), type := 0, pos := "curve.go:47", after := #[{ on := 11, ground := Ground.data }, { on := 9, ground := Ground.data }, { on := 12, ground := Ground.chain }, { on := 0, ground := Ground.phase }, { on := 1, ground := Ground.phase }, { on := 2, ground := Ground.phase }, { on := 3, ground := Ground.phase }, { on := 4, ground := Ground.phase }, { on := 5, ground := Ground.phase }, { on := 6, ground := Ground.phase }, { on := 7, ground := Ground.phase }, { on := 8, ground := Ground.phase }, { on := 9, ground := Ground.phase }, { on := 10, ground := Ground.phase }, { on := 11, ground := Ground.phase }, { on := 12, ground := Ground.phase }], guard := none }) rfl (by kernel_rfl) (by rfl) (.tmp 4) (.tmp 14) rfl (g43) 0 0 rfl [0] yy rfl rfl RZ43_45.out (show 0 < 1 by omega) rfl ?_
          intro W46 hr46 hg46 hz46
          simp only [Act.put, List.setIfInBounds_toArray, List.set_cons_zero, List.set_cons_succ]
          have Ngp_46 := Lib.hid (Ngp_45.out.grown hg46 (by have := HX43_1.out; simp; omega))
          have RZ37_46 := Lib.hid (RZ37_45.out.grown hg46 (by have := HX43_2.out; simp; omega))
          have RZ43_46 : Hid (RAt W46 g43 [yy]) := Lib.hid hr46
          have HF_46 : Hid (Below w.heap.size w W46) := Lib.hid (HF_45.out.grown hg46 HF_45.out.size (fun r hr => by injection hr with hr; have := (show w.heap.size ≤ g43 from (by have := HG43.out; have := HLO8.out; omega)); omega))
          have HL_46 : Hid (u7.heap.size ≤ W46.heap.size) := Lib.hid (Nat.le_trans HL_45.out hg46.size)
          clear hr46 hg46 hz46 HL_45 Ngp_45 RZ37_45 RZ43_45 HF_45
          refine doneW (by kernel_rfl) ⟨rfl, ?_⟩ _
          exact ⟨g37, g43, Ngp_46.out, RZ37_46.out, RZ43_46.out, HG37.out, HG43.out, (by have := HX43_2.out; omega), HF_46.out, rfl⟩
      · refine wpOp_value (i := 11) (oi := { dst := some 4, op := Op.alloc 23, type := 0, pos := "curve.go:47", after := #[], guard := none }) rfl (by rfl) (exec_alloc 23 rfl (.agg (zbs 32)) zero23 W37) ⟨fun _ => (below_alloc W37 _).mono HL_37.out, ?_⟩
        obtain ⟨W47, hW47, hb47, hz47⟩ := alloc_zero W37
        rw [← hW47]
        obtain ⟨g47, hg47⟩ : ∃ g, g = W37.heap.size := ⟨_, rfl⟩
        rw [← hg47] at hz47 ⊢
        have HG47 : Hid (u7.heap.size ≤ g47) := Lib.hid (by rw [hg47]; exact HL_37.out)
        have HX47_1 : Hid (w.heap.size ≠ g47) := Lib.hid (by have := Ngp_37.out.lt; omega)
        have HX47_2 : Hid (g37 ≠ g47) := Lib.hid (by have := RZ37_37.out.lt; omega)
        have Ngp_47 := Lib.hid (Ngp_37.out.keep hb47)
        have RZ37_47 := Lib.hid (RZ37_37.out.keep hb47)
        have HF_47 : Hid (Below w.heap.size w W47) := Lib.hid (HF_37.out.trans (hb47.mono HF_37.out.size))
        have HL_47 : Hid (u7.heap.size ≤ W47.heap.size) := Lib.hid (Nat.le_trans HL_37.out hb47.size)
        have RZ47_47 : Hid (RAt W47 g47 [0]) := Lib.hid (zrow (k := 1) hz47)
        clear hb47 hz47 hg47 hW47 HL_37 Ngp_37 RZ37_37 HF_37
        simp only [Act.put, List.setIfInBounds_toArray, List.set_cons_zero, List.set_cons_succ]
        refine callW (i := 4) (oi := { dst := some 9, op := Op.call { callee := Callee.value (Operand.func 25), args := #[Operand.tmp 6, Operand.tmp 8], argTypes := #[23, 23] }, type := 23, pos := "curve.go:47", after := #[{ on := 1, ground := Ground.data }, { on := 3, ground := Ground.data }], guard := none }) rfl (by kernel_rfl) (by rfl) (exec_callL 25 [.tmp 6, .tmp 8] #[23, 23] rfl [vN x, vN x] rfl (CG25 _)) ((C0.out W47).mono ?_)
        rintro e48 W48 ⟨rfl, hb48⟩
        refine ⟨_, rfl, fun _ => hb48.mono HL_47.out, ?_⟩
        have Ngp_48 := Lib.hid (Ngp_47.out.keep hb48)
        have RZ37_48 := Lib.hid (RZ37_47.out.keep hb48)
        have RZ47_48 := Lib.hid (RZ47_47.out.keep hb48)
        have HF_48 : Hid (Below w.heap.size w W48) := Lib.hid (HF_47.out.trans (hb48.mono HF_47.out.size))
        have HL_48 : Hid (u7.heap.size ≤ W48.heap.size) := Lib.hid (Nat.le_trans HL_47.out hb48.size)
        clear hb48 HL_47 Ngp_47 RZ37_47 RZ47_47 HF_47
        simp only [Act.put, List.setIfInBounds_toArray, List.set_cons_zero, List.set_cons_succ]
        refine callW (i := 9) (oi := { dst := some 14, op := Op.call { callee := Callee.value (Operand.func 25), args := #[Operand.tmp 11, Operand.tmp 13], argTypes := #[23, 23] }, type := 23, pos := "curve.go:47", after := #[{ on := 6, ground := Ground.data }, { on := 8, ground := Ground.data }, { on := 4, ground := Ground.chain }], guard := none }) rfl (by kernel_rfl) (by rfl) (exec_callL 25 [.tmp 11, .tmp 13] #[23, 23] rfl [vN y, vN y] rfl (CG25 _)) ((C1.out W48).mono ?_)
        rintro e49 W49 ⟨rfl, hb49⟩
        refine ⟨_, rfl, fun _ => hb49.mono HL_48.out, ?_⟩
        have Ngp_49 := Lib.hid (Ngp_48.out.keep hb49)
        have RZ37_49 := Lib.hid (RZ37_48.out.keep hb49)
        have RZ47_49 := Lib.hid (RZ47_48.out.keep hb49)
        have HF_49 : Hid (Below w.heap.size w W49) := Lib.hid (HF_48.out.trans (hb49.mono HF_48.out.size))
        have HL_49 : Hid (u7.heap.size ≤ W49.heap.size) := Lib.hid (Nat.le_trans HL_48.out hb49.size)
        clear hb49 HL_48 Ngp_48 RZ37_48 RZ47_48 HF_48
        simp only [Act.put, List.setIfInBounds_toArray, List.set_cons_zero, List.set_cons_succ]
        refine storeW_F (i := 12) (oi := { dst := none, op := Op.store 23 (Operand.tmp 3) (Operand.tmp 9), type := 0, pos := "curve.go:47", after := #[{ on := 10, ground := Ground.data }, { on := 4, ground := Ground.data }, { on := 9, ground := Ground.chain }, { on := 0, ground := Ground.phase }, { on := 1, ground := Ground.phase }, { on := 2, ground := Ground.phase }, { on := 3, ground := Ground.phase }, { on := 4, ground := Ground.phase }, { on := 5, ground := Ground.textOnly Departure.lateStores }, { on := 6, ground := Ground.textOnly Departure.lateStores }, { on := 7, ground := Ground.textOnly Departure.lateStores }, { on := 8, ground := Ground.textOnly Departure.lateStores }, { on := 9, ground := Ground.textOnly Departure.lateStoresUnsure }, { on := 10, ground := Ground.phase }, { on := 11, ground := Ground.phase }], guard := none }) rfl (by kernel_rfl) (by rfl) (.tmp 3) (.tmp 9) rfl (g37) 0 0 rfl [0] xx rfl rfl RZ37_49.out (show 0 < 1 by omega) rfl ?_
        intro W50 hr50 hg50 hz50
        simp only [Act.put, List.setIfInBounds_toArray, List.set_cons_zero, List.set_cons_succ]
        have Ngp_50 := Lib.hid (Ngp_49.out.grown hg50 (by have := HX37_0.out; simp; omega))
        have RZ37_50 : Hid (RAt W50 g37 [xx]) := Lib.hid hr50
        have RZ47_50 := Lib.hid (RZ47_49.out.grown hg50 (by have := HX47_2.out; simp; omega))
        have HF_50 : Hid (Below w.heap.size w W50) := Lib.hid (HF_49.out.grown hg50 HF_49.out.size (fun r hr => by injection hr with hr; have := (show w.heap.size ≤ g37 from (by have := HG37.out; have := HLO8.out; omega)); omega))
        have HL_50 : Hid (u7.heap.size ≤ W50.heap.size) := Lib.hid (Nat.le_trans HL_49.out hg50.size)
        clear hr50 hg50 hz50 HL_49 Ngp_49 RZ37_49 RZ47_49 HF_49
        refine storeW_F (i := 13) (oi := { dst := none, op := Op.store 23 (Operand.tmp 4) (Operand.tmp 14), type := 0, pos := "curve.go:47", after := #[{ on := 11, ground := Ground.data }, { on := 9, ground := Ground.data }, { on := 12, ground := Ground.chain }, { on := 0, ground := Ground.phase }, { on := 1, ground := Ground.phase }, { on := 2, ground := Ground.phase }, { on := 3, ground := Ground.phase }, { on := 4, ground := Ground.phase }, { on := 5, ground := Ground.phase }, { on := 6, ground := Ground.phase }, { on := 7, ground := Ground.phase }, { on := 8, ground := Ground.phase }, { on := 9, ground := Ground.phase }, { on := 10, ground := Ground.phase }, { on := 11, ground := Ground.phase }, { on := 12, ground := Ground.phase }], guard := none }) rfl (by kernel_rfl) (by rfl) (.tmp 4) (.tmp 14) rfl (g47) 0 0 rfl [0] yy rfl rfl RZ47_50.out (show 0 < 1 by omega) rfl ?_
        intro W51 hr51 hg51 hz51
        simp only [Act.put, List.setIfInBounds_toArray, List.set_cons_zero, List.set_cons_succ]
        have Ngp_51 := Lib.hid (Ngp_50.out.grown hg51 (by have := HX47_1.out; simp; omega))
        have RZ37_51 := Lib.hid (RZ37_50.out.grown hg51 (by have := HX47_2.out; simp; omega))
        have RZ47_51 : Hid (RAt W51 g47 [yy]) := Lib.hid hr51
        have HF_51 : Hid (Below w.heap.size w W51) := Lib.hid (HF_50.out.grown hg51 HF_50.out.size (fun r hr => by injection hr with hr; have := (show w.heap.size ≤ g47 from (by have := HG47.out; have := HLO8.out; omega)); omega))
        have HL_51 : Hid (u7.heap.size ≤ W51.heap.size) := Lib.hid (Nat.le_trans HL_50.out hg51.size)
        clear hr51 hg51 hz51 HL_50 Ngp_50 RZ37_50 RZ47_50 HF_50
        refine doneW (by kernel_rfl) ⟨rfl, ?_⟩ _
        exact ⟨g37, g47, Ngp_51.out, RZ37_51.out, RZ47_51.out, HG37.out, HG47.out, (by have := HX47_2.out; omega), HF_51.out, rfl⟩
    · refine wpOp_value (i := 11) (oi := { dst := some 4, op := Op.alloc 23, type := 0, pos := "curve.go:47", after := #[], guard := none }) rfl (by rfl) (exec_alloc 23 rfl (.agg (zbs 32)) zero23 D8) ⟨fun _ => (below_alloc D8 _).mono HL_8.out, ?_⟩
      obtain ⟨W52, hW52, hb52, hz52⟩ := alloc_zero D8
      rw [← hW52]
      obtain ⟨g52, hg52⟩ : ∃ g, g = D8.heap.size := ⟨_, rfl⟩
      rw [← hg52] at hz52 ⊢
      have HG52 : Hid (u7.heap.size ≤ g52) := Lib.hid (by rw [hg52]; exact HL_8.out)
      have HX52_0 : Hid (w.heap.size ≠ g52) := Lib.hid (by have := Ngp_8.out.lt; omega)
      have Ngp_52 := Lib.hid (Ngp_8.out.keep hb52)
      have HF_52 : Hid (Below w.heap.size w W52) := Lib.hid (HF_8.out.trans (hb52.mono HF_8.out.size))
      have HL_52 : Hid (u7.heap.size ≤ W52.heap.size) := Lib.hid (Nat.le_trans HL_8.out hb52.size)
      have RZ52_52 : Hid (RAt W52 g52 [0]) := Lib.hid (zrow (k := 1) hz52)
      clear hb52 hz52 hg52 hW52 HL_8 Ngp_8 HF_8
      simp only [Act.put, List.setIfInBounds_toArray, List.set_cons_zero, List.set_cons_succ]
      refine eachW [4, 10] (by kernel_rfl) (by simp) ?_
      intro k hk
      simp only [List.mem_cons, List.not_mem_nil, or_false] at hk
      rcases hk with rfl | rfl
      · refine wpOp_call (i := 4) (oi := { dst := some 9, op := Op.call { callee := Callee.value (Operand.func 25), args := #[Operand.tmp 6, Operand.tmp 8], argTypes := #[23, 23] }, type := 23, pos := "curve.go:47", after := #[{ on := 1, ground := Ground.data }, { on := 3, ground := Ground.data }], guard := none }) rfl (by rfl) (exec_callL 25 [.tmp 6, .tmp 8] #[23, 23] rfl [vN x, vN x] rfl (CG25 _)) ((C0.out W52).mono ?_)
        rintro e53 W53 ⟨rfl, hb53⟩
        refine ⟨_, rfl, fun _ => hb53.mono HL_52.out, ?_⟩
        have Ngp_53 := Lib.hid (Ngp_52.out.keep hb53)
        have RZ52_53 := Lib.hid (RZ52_52.out.keep hb53)
        have HF_53 : Hid (Below w.heap.size w W53) := Lib.hid (HF_52.out.trans (hb53.mono HF_52.out.size))
        have HL_53 : Hid (u7.heap.size ≤ W53.heap.size) := Lib.hid (Nat.le_trans HL_52.out hb53.size)
        clear hb53 HL_52 Ngp_52 RZ52_52 HF_52
        simp only [Act.put, List.setIfInBounds_toArray, List.set_cons_zero, List.set_cons_succ]
        refine eachW [9, 10] (by kernel_rfl) (by simp) ?_
        intro k hk
        simp only [List.mem_cons, List.not_mem_nil, or_false] at hk
        rcases hk with rfl | rfl
        · refine wpOp_call (i := 9) (oi := { dst := some 14, op := Op.call { callee := Callee.value (Operand.func 25), args := #[Operand.tmp 11, Operand.tmp 13], argTypes := #[23, 23] }, type := 23, pos := "curve.go:47", after := #[{ on := 6, ground := Ground.data }, { on := 8, ground := Ground.data }, { on := 4, ground := Ground.chain }], guard := none }) rfl (by rfl) (exec_callL 25 [.tmp 11, .tmp 13] #[23, 23] rfl [vN y, vN y] rfl (CG25 _)) ((C1.out W53).mono ?_)
          rintro e54 W54 ⟨rfl, hb54⟩
          refine ⟨_, rfl, fun _ => hb54.mono HL_53.out, ?_⟩
          have Ngp_54 := Lib.hid (Ngp_53.out.keep hb54)
          have RZ52_54 := Lib.hid (RZ52_53.out.keep hb54)
          have HF_54 : Hid (Below w.heap.size w W54) := Lib.hid (HF_53.out.trans (hb54.mono HF_53.out.size))
          have HL_54 : Hid (u7.heap.size ≤ W54.heap.size) := Lib.hid (Nat.le_trans HL_53.out hb54.size)
          clear hb54 HL_53 Ngp_53 RZ52_53 HF_53
          simp only [Act.put, List.setIfInBounds_toArray, List.set_cons_zero, List.set_cons_succ]
          refine opW _ _ (i := 10) (oi := { dst := some 3, op := Op.alloc 23, type := 0, pos := "curve.go:47", after := #[], guard := none }) rfl (by kernel_rfl) (by rfl) (exec_alloc 23 rfl (.agg (zbs 32)) zero23 W54) (fun _ => (below_alloc W54 _).mono HL_54.out) ?_
          obtain ⟨W55, hW55, hb55, hz55⟩ := alloc_zero W54
          rw [← hW55]
          obtain ⟨g55, hg55⟩ : ∃ g, g = W54.heap.size := ⟨_, rfl⟩
          rw [← hg55] at hz55 ⊢
          have HG55 : Hid (u7.heap.size ≤ g55) := Lib.hid (by rw [hg55]; exact HL_54.out)
          have HX55_1 : Hid (w.heap.size ≠ g55) := Lib.hid (by have := Ngp_54.out.lt; omega)
          have HX55_2 : Hid (g52 ≠ g55) := Lib.hid (by have := RZ52_54.out.lt; omega)
          have Ngp_55 := Lib.hid (Ngp_54.out.keep hb55)
          have RZ52_55 := Lib.hid (RZ52_54.out.keep hb55)
          have HF_55 : Hid (Below w.heap.size w W55) := Lib.hid (HF_54.out.trans (hb55.mono HF_54.out.size))
          have HL_55 : Hid (u7.heap.size ≤ W55.heap.size) := Lib.hid (Nat.le_trans HL_54.out hb55.size)
          have RZ55_55 : Hid (RAt W55 g55 [0]) := Lib.hid (zrow (k := 1) hz55)
          clear hb55 hz55 hg55 hW55 HL_54 Ngp_54 RZ52_54 HF_54
          simp only [Act.put, List.setIfInBounds_toArray, List.set_cons_zero, List.set_cons_succ]
          refine storeW_F (i := 12) (oi := { dst := none, op := Op.store 23 (Operand.tmp 3) (Operand.tmp 9), type := 0, pos := "curve.go:47", after := #[{ on := 10, ground := Ground.data }, { on := 4, ground := Ground.data }, { on := 9, ground := Ground.chain }, { on := 0, ground := Ground.phase }, { on := 1, ground := Ground.phase }, { on := 2, ground := Ground.phase }, { on := 3, ground := Ground.phase }, { on := 4, ground := Ground.phase }, { on := 5, ground := Ground.textOnly Departure.lateStores }, { on := 6, ground := Ground.textOnly Departure.lateStores }, { on := 7, ground := Ground.textOnly Departure.lateStores }, { on := 8, ground := Ground.textOnly Departure.lateStores }, { on := 9, ground := Ground.textOnly Departure.lateStoresUnsure }, { on := 10, ground := Ground.phase }, { on := 11, ground := Ground.phase }], guard := none }) rfl (by kernel_rfl) (by rfl) (.tmp 3) (.tmp 9) rfl (g55) 0 0 rfl [0] xx rfl rfl RZ55_55.out (show 0 < 1 by omega) rfl ?_
          intro W56 hr56 hg56 hz56
          simp only [Act.put, List.setIfInBounds_toArray, List.set_cons_zero, List.set_cons_succ]
          have Ngp_56 := Lib.hid (Ngp_55.out.grown hg56 (by have := HX55_1.out; simp; omega))
          have RZ52_56 := Lib.hid (RZ52_55.out.grown hg56 (by have := HX55_2.out; simp; omega))
          have RZ55_56 : Hid (RAt W56 g55 [xx]) := Lib.hid hr56
          have HF_56 : Hid (Below w.heap.size w W56) := Lib.hid (HF_55.out.grown hg56 HF_55.out.size (fun r hr => by injection hr with hr; have := (show w.heap.size ≤ g55 from (by have := HG55.out; have := HLO8.out; omega)); omega))
          have HL_56 : Hid (u7.heap.size ≤ W56.heap.size) := Lib.hid (Nat.le_trans HL_55.out hg56.size)
          clear hr56 hg56 hz56 HL_55 Ngp_55 RZ52_55 RZ55_55 HF_55
          refine storeW_F (i := 13) (oi := { dst := none, op := Op.store 23 (Operand.tmp 4) (Operand.tmp 14), type := 0, pos := "curve.go:47", after := #[{ on := 11, ground := Ground.data }, { on := 9, ground := Ground.data }, { on := 12, ground := Ground.chain }, { on := 0, ground := Ground.phase }, { on := 1, ground := Ground.phase }, { on := 2, ground := Ground.phase }, { on := 3, ground := Ground.phase }, { on := 4, ground := Ground.phase }, { on := 5, ground := Ground.phase }, { on := 6, ground := Ground.phase }, { on := 7, ground := Ground.phase }, { on := 8, ground := Ground.phase }, { on := 9, ground := Ground.phase }, { on := 10, ground := Ground.phase }, { on := 11, ground := Ground.phase }, { on := 12, ground := Ground.phase }], guard := none }) rfl (by kernel_rfl) (by rfl) (.tmp 4) (.tmp 14) rfl (g52) 0 0 rfl [0] yy rfl rfl RZ52_56.out (show 0 < 1 by omega) rfl ?_
          intro W57 hr57 hg57 hz57
          simp only [Act.put, List.setIfInBounds_toArray, List.set_cons_zero, List.set_cons_succ]
          have Ngp_57 := Lib.hid (Ngp_56.out.grown hg57 (by have := HX52_0.out; simp; omega))
          have RZ52_57 : Hid (RAt W57 g52 [yy]) := Lib.hid hr57
          have RZ55_57 := Lib.hid (RZ55_56.out.grown hg57 (by have := HX55_2.out; simp; omega))
          have HF_57 : Hid (Below w.heap.size w W57) := Lib.hid (HF_56.out.grown hg57 HF_56.out.size (fun r hr => by injection hr with hr; have := (show w.heap.size ≤ g52 from (by have := HG52.out; have := HLO8.out; omega)); omega))
          have HL_57 : Hid (u7.heap.size ≤ W57.heap.size) := Lib.hid (Nat.le_trans HL_56.out hg57.size)
          clear hr57 hg57 hz57 HL_56 Ngp_56 RZ52_56 RZ55_56 HF_56
          refine doneW (by kernel_rfl) ⟨rfl, ?_⟩ _
          exact ⟨g55, g52, Ngp_57.out, RZ55_57.out, RZ52_57.out, HG55.out, HG52.out, (by have := HX55_2.out; omega), HF_57.out, rfl⟩
        · refine wpOp_value (i := 10) (oi := { dst := some 3, op := Op.alloc 23, type := 0, pos := "curve.go:47", after := #[], guard := none }) rfl (by rfl) (exec_alloc 23 rfl (.agg (zbs 32)) zero23 W53) ⟨fun _ => (below_alloc W53 _).mono HL_53.out, ?_⟩
          obtain ⟨W58, hW58, hb58, hz58⟩ := alloc_zero W53
          rw [← hW58]
          obtain ⟨g58, hg58⟩ : ∃ g, g = W53.heap.size := ⟨_, rfl⟩
          rw [← hg58] at hz58 ⊢
          have HG58 : Hid (u7.heap.size ≤ g58) := Lib.hid (by rw [hg58]; exact HL_53.out)
          have HX58_1 : Hid (w.heap.size ≠ g58) := Lib.hid (by have := Ngp_53.out.lt; omega)
          have HX58_2 : Hid (g52 ≠ g58) := Lib.hid (by have := RZ52_53.out.lt; omega)
          have Ngp_58 := Lib.hid (Ngp_53.out.keep hb58)
          have RZ52_58 := Lib.hid (RZ52_53.out.keep hb58)
          have HF_58 : Hid (Below w.heap.size w W58) := Lib.hid (HF_53.out.trans (hb58.mono HF_53.out.size))
          have HL_58 : Hid (u7.heap.size ≤ W58.heap.size) := Lib.hid (Nat.le_trans HL_53.out hb58.size)
          have RZ58_58 : Hid (RAt W58 g58 [0]) := Lib.hid (zrow (k := 1) hz58)
          clear hb58 hz58 hg58 hW58 HL_53 Ngp_53 RZ52_53 HF_53
          simp only [Act.put, List.setIfInBounds_toArray, List.set_cons_zero, List.set_cons_succ]
          refine callW (i := 9) (oi := { dst := some 14, op := Op.call { callee := Callee.value (Operand.func 25), args := #[Operand.tmp 11, Operand.tmp 13], argTypes := #[23, 23] }, type := 23, pos := "curve.go:47", after := #[{ on := 6, ground := Ground.data }, { on := 8, ground := Ground.data }, { on := 4, ground := Ground.chain }], guard := none }) rfl (by kernel_rfl) (by rfl) (exec_callL 25 [.tmp 11, .tmp 13] #[23, 23] rfl [vN y, vN y] rfl (CG25 _)) ((C1.out W58).mono ?_)
          rintro e59 W59 ⟨rfl, hb59⟩
          refine ⟨_, rfl, fun _ => hb59.mono HL_58.out, ?_⟩
          have Ngp_59 := Lib.hid (Ngp_58.out.keep hb59)
          have RZ52_59 := Lib.hid (RZ52_58.out.keep hb59)
          have RZ58_59 := Lib.hid (RZ58_58.out.keep hb59)
          have HF_59 : Hid (Below w.heap.size w W59) := Lib.hid (HF_58.out.trans (hb59.mono HF_58.out.size))
          have HL_59 : Hid (u7.heap.size ≤ W59.heap.size) := Lib.hid (Nat.le_trans HL_58.out hb59.size)
          clear hb59 HL_58 Ngp_58 RZ52_58 RZ58_58 HF_58
          simp only [Act.put, List.setIfInBounds_toArray, List.set_cons_zero, List.set_cons_succ]
          refine storeW_F (i := 12) (oi := { dst := none, op := Op.store 23 (Operand.tmp 3) (Operand.tmp 9), type := 0, pos := "curve.go:47", after := #[{ on := 10, ground := Ground.data }, { on := 4, ground := Ground.data }, { on := 9, ground := Ground.chain }, { on := 0, ground := Ground.phase }, { on := 1, ground := Ground.phase }, { on := 2, ground := Ground.phase }, { on := 3, ground := Ground.phase }, { on := 4, ground := Ground.phase }, { on := 5, ground := Ground.textOnly Departure.lateStores }, { on := 6, ground := Ground.textOnly Departure.lateStores }, { on := 7, ground := Ground.textOnly Departure.lateStores }, { on := 8, ground := Ground.textOnly Departure.lateStores }, { on := 9, ground := Ground.textOnly Departure.lateStoresUnsure }, { on := 10, ground := Ground.phase }, { on := 11, ground := Ground.phase }], guard := none }) rfl (by kernel_rfl) (by rfl) (.tmp 3) (.tmp 9) rfl (g58) 0 0 rfl [0] xx rfl rfl RZ58_59.out (show 0 < 1 by omega) rfl ?_
          intro W60 hr60 hg60 hz60
          simp only [Act.put, List.setIfInBounds_toArray, List.set_cons_zero, List.set_cons_succ]
          have Ngp_60 := Lib.hid (Ngp_59.out.grown hg60 (by have := HX58_1.out; simp; omega))
          have RZ52_60 := Lib.hid (RZ52_59.out.grown hg60 (by have := HX58_2.out; simp; omega))
          have RZ58_60 : Hid (RAt W60 g58 [xx]) := Lib.hid hr60
          have HF_60 : Hid (Below w.heap.size w W60) := Lib.hid (HF_59.out.grown hg60 HF_59.out.size (fun r hr => by injection hr with hr; have := (show w.heap.size ≤ g58 from (by have := HG58.out; have := HLO8.out; omega)); omega))
          have HL_60 : Hid (u7.heap.size ≤ W60.heap.size) := Lib.hid (Nat.le_trans HL_59.out hg60.size)
          clear hr60 hg60 hz60 HL_59 Ngp_59 RZ52_59 RZ58_59 HF_59
          refine storeW_F (i := 13) (oi := { dst := none, op := Op.store 23 (Operand.tmp 4) (Operand.tmp 14), type := 0, pos := "curve.go:47", after := #[{ on := 11, ground := Ground.data }, { on := 9, ground := Ground.data }, { on := 12, ground := Ground.chain }, { on := 0, ground := Ground.phase }, { on := 1, ground := Ground.phase }, { on := 2, ground := Ground.phase }, { on := 3, ground := Ground.phase }, { on := 4, ground := Ground.phase }, { on := 5, ground := Ground.phase }, { on := 6, ground := Ground.phase }, { on := 7, ground := Ground.phase }, { on := 8, ground := Ground.phase }, { on := 9, ground := Ground.phase }, { on := 10, ground := Ground.phase }, { on := 11, ground := Ground.phase }, { on := 12, ground := Ground.phase }], guard := none }) rfl (by kernel_rfl) (by rfl) (.tmp 4) (.tmp 14) rfl (g52) 0 0 rfl [0] yy rfl rfl RZ52_60.out (show 0 < 1 by omega) rfl ?_
          intro W61 hr61 hg61 hz61
          simp only [Act.put, List.setIfInBounds_toArray, List.set_cons_zero, List.set_cons_succ]
          have Ngp_61 := Lib.hid (Ngp_60.out.grown hg61 (by have := HX52_0.out; simp; omega))
          have RZ52_61 : Hid (RAt W61 g52 [yy]) := Lib.hid hr61
          have RZ58_61 := Lib.hid (RZ58_60.out.grown hg61 (by have := HX58_2.out; simp; omega))
          have HF_61 : Hid (Below w.heap.size w W61) := Lib.hid (HF_60.out.grown hg61 HF_60.out.size (fun r hr => by injection hr with hr; have := (show w.heap.size ≤ g52 from (by have := HG52.out; have := HLO8.out; omega)); omega))
          have HL_61 : Hid (u7.heap.size ≤ W61.heap.size) := Lib.hid (Nat.le_trans HL_60.out hg61.size)
          clear hr61 hg61 hz61 HL_60 Ngp_60 RZ52_60 RZ58_60 HF_60
          refine doneW (by kernel_rfl) ⟨rfl, ?_⟩ _
          exact ⟨g58, g52, Ngp_61.out, RZ58_61.out, RZ52_61.out, HG58.out, HG52.out, (by have := HX58_2.out; omega), HF_61.out, rfl⟩
      · refine wpOp_value (i := 10) (oi := { dst := some 3, op := Op.alloc 23, type := 0, pos := "curve.go:47", after := #[], guard := none }) rfl (by rfl) (exec_alloc 23 rfl (.agg (zbs 32)) zero23 W52) ⟨fun _ => (below_alloc W52 _).mono HL_52.out, ?_⟩
        obtain ⟨W62, hW62, hb62, hz62⟩ := alloc_zero W52
        rw [← hW62]
        obtain ⟨g62, hg62⟩ : ∃ g, g = W52.heap.size := ⟨_, rfl⟩
        rw [← hg62] at hz62 ⊢
        have HG62 : Hid (u7.heap.size ≤ g62) := Lib.hid (by rw [hg62]; exact HL_52.out)
        have HX62_1 : Hid (w.heap.size ≠ g62) := Lib.hid (by have := Ngp_52.out.lt; omega)
        have HX62_2 : Hid (g52 ≠ g62) := Lib.hid (by have := RZ52_52.out.lt; omega)
        have Ngp_62 := Lib.hid (Ngp_52.out.keep hb62)
        have RZ52_62 := Lib.hid (RZ52_52.out.keep hb62)
        have HF_62 : Hid (Below w.heap.size w W62) := Lib.hid (HF_52.out.trans (hb62.mono HF_52.out.size))
        have HL_62 : Hid (u7.heap.size ≤ W62.heap.size) := Lib.hid (Nat.le_trans HL_52.out hb62.size)
        have RZ62_62 : Hid (RAt W62 g62 [0]) := Lib.hid (zrow (k := 1) hz62)
        clear hb62 hz62 hg62 hW62 HL_52 Ngp_52 RZ52_52 HF_52
        simp only [Act.put, List.setIfInBounds_toArray, List.set_cons_zero, List.set_cons_succ]
        refine callW (i := 4) (oi := { dst := some 9, op := Op.call { callee := Callee.value (Operand.func 25), args := #[Operand.tmp 6, Operand.tmp 8], argTypes := #[23, 23] }, type := 23, pos := "curve.go:47", after := #[{ on := 1, ground := Ground.data }, { on := 3, ground := Ground.data }], guard := none }) rfl (by kernel_rfl) (by rfl) (exec_callL 25 [.tmp 6, .tmp 8] #[23, 23] rfl [vN x, vN x] rfl (CG25 _)) ((C0.out W62).mono ?_)
        rintro e63 W63 ⟨rfl, hb63⟩
        refine ⟨_, rfl, fun _ => hb63.mono HL_62.out, ?_⟩
        have Ngp_63 := Lib.hid (Ngp_62.out.keep hb63)
        have RZ52_63 := Lib.hid (RZ52_62.out.keep hb63)
        have RZ62_63 := Lib.hid (RZ62_62.out.keep hb63)
        have HF_63 : Hid (Below w.heap.size w W63) := Lib.hid (HF_62.out.trans (hb63.mono HF_62.out.size))
        have HL_63 : Hid (u7.heap.size ≤ W63.heap.size) := Lib.hid (Nat.le_trans HL_62.out hb63.size)
        clear hb63 HL_62 Ngp_62 RZ52_62 RZ62_62 HF_62
        simp only [Act.put, List.setIfInBounds_toArray, List.set_cons_zero, List.set_cons_succ]
        refine callW (i := 9) (oi := { dst := some 14, op := Op.call { callee := Callee.value (Operand.func 25), args := #[Operand.tmp 11, Operand.tmp 13], argTypes := #[23, 23] }, type := 23, pos := "curve.go:47", after := #[{ on := 6, ground := Ground.data }, { on := 8, ground := Ground.data }, { on := 4, ground := Ground.chain }], guard := none }) rfl (by kernel_rfl) (by rfl) (exec_callL 25 [.tmp 11, .tmp 13] #[23, 23] rfl [vN y, vN y] rfl (CG25 _)) ((C1.out W63).mono ?_)
        rintro e64 W64 ⟨rfl, hb64⟩
        refine ⟨_, rfl, fun _ => hb64.mono HL_63.out, ?_⟩
        have Ngp_64 := Lib.hid (Ngp_63.out.keep hb64)
        have RZ52_64 := Lib.hid (RZ52_63.out.keep hb64)
        have RZ62_64 := Lib.hid (RZ62_63.out.keep hb64)
        have HF_64 : Hid (Below w.heap.size w W64) := Lib.hid (HF_63.out.trans (hb64.mono HF_63.out.size))
        have HL_64 : Hid (u7.heap.size ≤ W64.heap.size) := Lib.hid (Nat.le_trans HL_63.out hb64.size)
        clear hb64 HL_63 Ngp_63 RZ52_63 RZ62_63 HF_63
        simp only [Act.put, List.setIfInBounds_toArray, List.set_cons_zero, List.set_cons_succ]
        refine storeW_F (i := 12) (oi := { dst := none, op := Op.store 23 (Operand.tmp 3) (Operand.tmp 9), type := 0, pos := "curve.go:47", after := #[{ on := 10, ground := Ground.data }, { on := 4, ground := Ground.data }, { on := 9, ground := Ground.chain }, { on := 0, ground := Ground.phase }, { on := 1, ground := Ground.phase }, { on := 2, ground := Ground.phase }, { on := 3, ground := Ground.phase }, { on := 4, ground := Ground.phase }, { on := 5, ground := Ground.textOnly Departure.lateStores }, { on := 6, ground := Ground.textOnly Departure.lateStores }, { on := 7, ground := Ground.textOnly Departure.lateStores }, { on := 8, ground := Ground.textOnly Departure.lateStores }, { on := 9, ground := Ground.textOnly Departure.lateStoresUnsure }, { on := 10, ground := Ground.phase }, { on := 11, ground := Ground.phase }], guard := none }) rfl (by kernel_rfl) (by rfl) (.tmp 3) (.tmp 9) rfl (g62) 0 0 rfl [0] xx rfl rfl RZ62_64.out (show 0 < 1 by omega) rfl ?_
        intro W65 hr65 hg65 hz65
        simp only [Act.put, List.setIfInBounds_toArray, List.set_cons_zero, List.set_cons_succ]
        have Ngp_65 := Lib.hid (Ngp_64.out.grown hg65 (by have := HX62_1.out; simp; omega))
        have RZ52_65 := Lib.hid (RZ52_64.out.grown hg65 (by have := HX62_2.out; simp; omega))
        have RZ62_65 : Hid (RAt W65 g62 [xx]) := Lib.hid hr65
        have HF_65 : Hid (Below w.heap.size w W65) := Lib.hid (HF_64.out.grown hg65 HF_64.out.size (fun r hr => by injection hr with hr; have := (show w.heap.size ≤ g62 from (by have := HG62.out; have := HLO8.out; omega)); omega))
        have HL_65 : Hid (u7.heap.size ≤ W65.heap.size) := Lib.hid (Nat.le_trans HL_64.out hg65.size)
        clear hr65 hg65 hz65 HL_64 Ngp_64 RZ52_64 RZ62_64 HF_64
        refine storeW_F (i := 13) (oi := { dst := none, op := Op.store 23 (Operand.tmp 4) (Operand.tmp 14), type := 0, pos := "curve.go:47", after := #[{ on := 11, ground := Ground.data }, { on := 9, ground := Ground.data }, { on := 12, ground := Ground.chain }, { on := 0, ground := Ground.phase }, { on := 1, ground := Ground.phase }, { on := 2, ground := Ground.phase }, { on := 3, ground := Ground.phase }, { on := 4, ground := Ground.phase }, { on := 5, ground := Ground.phase }, { on := 6, ground := Ground.phase }, { on := 7, ground := Ground.phase }, { on := 8, ground := Ground.phase }, { on := 9, ground := Ground.phase }, { on := 10, ground := Ground.phase }, { on := 11, ground := Ground.phase }, { on := 12, ground := Ground.phase }], guard := none }) rfl (by kernel_rfl) (by rfl) (.tmp 4) (.tmp 14) rfl (g52) 0 0 rfl [0] yy rfl rfl RZ52_65.out (show 0 < 1 by omega) rfl ?_
        intro W66 hr66 hg66 hz66
        simp only [Act.put, List.setIfInBounds_toArray, List.set_cons_zero, List.set_cons_succ]
        have Ngp_66 := Lib.hid (Ngp_65.out.grown hg66 (by have := HX52_0.out; simp; omega))
        have RZ52_66 : Hid (RAt W66 g52 [yy]) := Lib.hid hr66
        have RZ62_66 := Lib.hid (RZ62_65.out.grown hg66 (by have := HX62_2.out; simp; omega))
        have HF_66 : Hid (Below w.heap.size w W66) := Lib.hid (HF_65.out.grown hg66 HF_65.out.size (fun r hr => by injection hr with hr; have := (show w.heap.size ≤ g52 from (by have := HG52.out; have := HLO8.out; omega)); omega))
        have HL_66 : Hid (u7.heap.size ≤ W66.heap.size) := Lib.hid (Nat.le_trans HL_65.out hg66.size)
        clear hr66 hg66 hz66 HL_65 Ngp_65 RZ52_65 RZ62_65 HF_65
        refine doneW (by kernel_rfl) ⟨rfl, ?_⟩ _
        exact ⟨g62, g52, Ngp_66.out, RZ62_66.out, RZ52_66.out, HG62.out, HG52.out, (by have := HX62_2.out; omega), HF_66.out, rfl⟩
  rintro a' v67 ⟨a8_0, a8_1, h0, h1, h2, k0, k1, q0, hF, rfl⟩
  have Ngp_67 := Lib.hid h0
  have Na8_0_67 := Lib.hid h1
  have Na8_1_67 := Lib.hid h2
  have HNE67_0 : Hid (w.heap.size ≠ a8_0) := Lib.hid (by have := HLT8_0.out; omega)
  have HGE67_0 : Hid (w.heap.size ≤ a8_0) := Lib.hid (by have := HLO8.out; omega)
  have HNE67_1 : Hid (w.heap.size ≠ a8_1) := Lib.hid (by have := HLT8_0.out; omega)
  have HGE67_1 : Hid (w.heap.size ≤ a8_1) := Lib.hid (by have := HLO8.out; omega)
  have HNE67_2 := Lib.hid q0
  have HF_67 := Lib.hid hF
  clear h0 h1 h2 k0 k1 q0 hF HLT8_0 HLO8 Ngp_7 HF_7
  go_wp2_with fail
  have HLT68_0 : Hid (w.heap.size < v67.heap.size) := Lib.hid Ngp_67.out.lt
  have HLT68_1 : Hid (a8_0 < v67.heap.size) := Lib.hid Na8_0_67.out.lt
  have HLT68_2 : Hid (a8_1 < v67.heap.size) := Lib.hid Na8_1_67.out.lt
  have HLO68 : Hid (w.heap.size ≤ v67.heap.size) := Lib.hid HF_67.out.size
  refine region_split (fun a' W => RAt W w.heap.size [x, y] ∧ RAt W a8_0 [xx] ∧ RAt W a8_1 [yy] ∧ Below w.heap.size w W ∧ a' = ⟨#[vR [x, y], .pointer (some ⟨w.heap.size, 0, none⟩), .bool b, .pointer (some ⟨a8_0, 0, none⟩), .pointer (some ⟨a8_1, 0, none⟩), .pointer (some ⟨w.heap.size, 0, none⟩), vN x, .pointer (some ⟨w.heap.size, 0, none⟩), vN x, vN xx, .pointer (some ⟨w.heap.size, 32, none⟩), vN y, .pointer (some ⟨w.heap.size, 32, none⟩), vN y, vN yy, vN yy, vN xx, vN l, vN 1, vN dd, vN xx, vN yy, vN m, vN dm, vN r, .bool b], []⟩) ?_ ?_
  · refine startW (fun j => false) (v67.heap.size) (by kernel_rfl) ?_
    obtain ⟨D68, hD68⟩ : ∃ D, D = v67.drew := ⟨_, rfl⟩
    rw [← hD68]
    have HL_68 : Hid (v67.heap.size ≤ D68.heap.size) := Lib.hid (by rw [hD68]; exact Nat.le_refl _)
    have Ngp_68 : Hid (RAt D68 w.heap.size [x, y]) := Lib.hid (by rw [hD68]; exact Ngp_67.out)
    have Na8_0_68 : Hid (RAt D68 a8_0 [xx]) := Lib.hid (by rw [hD68]; exact Na8_0_67.out)
    have Na8_1_68 : Hid (RAt D68 a8_1 [yy]) := Lib.hid (by rw [hD68]; exact Na8_1_67.out)
    have HF_68 : Hid (Below w.heap.size w D68) := Lib.hid (by rw [hD68]; exact below_drewN' HF_67.out 1)
    clear hD68 Ngp_67 Na8_0_67 Na8_1_67 HF_67
    refine takeT (i := 0) (oi := { dst := some 15, op := Op.load 23 (Operand.tmp 4), type := 23, pos := "curve.go:48", after := #[], guard := none }) (vN yy) rfl (by kernel_rfl) (by kernel_rfl) (by kernel_rfl) (by kernel_rfl) (by kernel_rfl) (fun _ _ _ h => nomatch h.1) (by rfl) (fun w' hk => exec_loadF (.tmp 4) rfl (a8_1) 0 0 rfl [yy] yy rfl (Na8_1_68.out.below hk HLT68_2.out) rfl) ?_
    simp only [Act.put, List.setIfInBounds_toArray, List.set_cons_zero, List.set_cons_succ]
    refine takeT (i := 1) (oi := { dst := some 16, op := Op.load 23 (Operand.tmp 3), type := 23, pos := "curve.go:48", after := #[], guard := none }) (vN xx) rfl (by kernel_rfl) (by kernel_rfl) (by kernel_rfl) (by kernel_rfl) (by kernel_rfl) (fun _ _ _ h => nomatch h.1) (by rfl) (fun w' hk => exec_loadF (.tmp 3) rfl (a8_0) 0 0 rfl [xx] xx rfl (Na8_0_68.out.below hk HLT68_1.out) rfl) ?_
    simp only [Act.put, List.setIfInBounds_toArray, List.set_cons_zero, List.set_cons_succ]
    refine takeT (i := 5) (oi := { dst := some 20, op := Op.load 23 (Operand.tmp 3), type := 23, pos := "curve.go:48", after := #[], guard := none }) (vN xx) rfl (by kernel_rfl) (by kernel_rfl) (by kernel_rfl) (by kernel_rfl) (by kernel_rfl) (fun _ _ _ h => nomatch h.1) (by rfl) (fun w' hk => exec_loadF (.tmp 3) rfl (a8_0) 0 0 rfl [xx] xx rfl (Na8_0_68.out.below hk HLT68_1.out) rfl) ?_
    simp only [Act.put, List.setIfInBounds_toArray, List.set_cons_zero, List.set_cons_succ]
    refine takeT (i := 6) (oi := { dst := some 21, op := Op.load 23 (Operand.tmp 4), type := 23, pos := "curve.go:48", after := #[], guard := none }) (vN yy) rfl (by kernel_rfl) (by kernel_rfl) (by kernel_rfl) (by kernel_rfl) (by kernel_rfl) (fun _ _ _ h => nomatch h.1) (by rfl) (fun w' hk => exec_loadF (.tmp 4) rfl (a8_1) 0 0 rfl [yy] yy rfl (Na8_1_68.out.below hk HLT68_2.out) rfl) ?_
    simp only [Act.put, List.setIfInBounds_toArray, List.set_cons_zero, List.set_cons_succ]
    refine callW (i := 2) (oi := { dst := some 17, op := Op.call { callee := Callee.value (Operand.func 21), args := #[Operand.tmp 15, Operand.tmp 16], argTypes := #[23, 23] }, type := 23, pos := "curve.go:48", after := #[{ on := 0, ground := Ground.data }, { on := 1, ground := Ground.data }], guard := none }) rfl (by kernel_rfl) (by rfl) (exec_callL 21 [.tmp 15, .tmp 16] #[23, 23] rfl [vN yy, vN xx] rfl (CG21 _)) ((C2.out D68).mono ?_)
    rintro e69 W69 ⟨rfl, hb69⟩
    refine ⟨_, rfl, fun _ => hb69.mono HL_68.out, ?_⟩
    have Ngp_69 := Lib.hid (Ngp_68.out.keep hb69)
    have Na8_0_69 := Lib.hid (Na8_0_68.out.keep hb69)
    have Na8_1_69 := Lib.hid (Na8_1_68.out.keep hb69)
    have HF_69 : Hid (Below w.heap.size w W69) := Lib.hid (HF_68.out.trans (hb69.mono HF_68.out.size))
    have HL_69 : Hid (v67.heap.size ≤ W69.heap.size) := Lib.hid (Nat.le_trans HL_68.out hb69.size)
    clear hb69 HL_68 Ngp_68 Na8_0_68 Na8_1_68 HF_68
    simp only [Act.put, List.setIfInBounds_toArray, List.set_cons_zero, List.set_cons_succ]
    refine callW (i := 3) (oi := { dst := some 18, op := Op.call { callee := Callee.value (Operand.func 17), args := #[Operand.const (Value.int IntKind.u64 1)], argTypes := #[24] }, type := 23, pos := "curve.go:48", after := #[{ on := 2, ground := Ground.chain }], guard := none }) rfl (by kernel_rfl) (by rfl) (exec_callL 17 [.const (.int .u64 1)] #[24] rfl [.int .u64 1] rfl (CG17 _)) ((C3.out W69).mono ?_)
    rintro e70 W70 ⟨rfl, hb70⟩
    refine ⟨_, rfl, fun _ => hb70.mono HL_69.out, ?_⟩
    have Ngp_70 := Lib.hid (Ngp_69.out.keep hb70)
    have Na8_0_70 := Lib.hid (Na8_0_69.out.keep hb70)
    have Na8_1_70 := Lib.hid (Na8_1_69.out.keep hb70)
    have HF_70 : Hid (Below w.heap.size w W70) := Lib.hid (HF_69.out.trans (hb70.mono HF_69.out.size))
    have HL_70 : Hid (v67.heap.size ≤ W70.heap.size) := Lib.hid (Nat.le_trans HL_69.out hb70.size)
    clear hb70 HL_69 Ngp_69 Na8_0_69 Na8_1_69 HF_69
    simp only [Act.put, List.setIfInBounds_toArray, List.set_cons_zero, List.set_cons_succ]
    refine callW (i := 4) (oi := { dst := some 19, op := Op.call { callee := Callee.value (Operand.func 45), args := #[], argTypes := #[] }, type := 23, pos := "curve.go:48", after := #[{ on := 3, ground := Ground.chain }], guard := none }) rfl (by kernel_rfl) (by rfl) (exec_callL 45 [] #[] rfl [] rfl (CG45 _)) ((C4.out W70).mono ?_)
    rintro e71 W71 ⟨rfl, hb71⟩
    refine ⟨_, rfl, fun _ => hb71.mono HL_70.out, ?_⟩
    have Ngp_71 := Lib.hid (Ngp_70.out.keep hb71)
    have Na8_0_71 := Lib.hid (Na8_0_70.out.keep hb71)
    have Na8_1_71 := Lib.hid (Na8_1_70.out.keep hb71)
    have HF_71 : Hid (Below w.heap.size w W71) := Lib.hid (HF_70.out.trans (hb71.mono HF_70.out.size))
    have HL_71 : Hid (v67.heap.size ≤ W71.heap.size) := Lib.hid (Nat.le_trans HL_70.out hb71.size)
    clear hb71 HL_70 Ngp_70 Na8_0_70 Na8_1_70 HF_70
    simp only [Act.put, List.setIfInBounds_toArray, List.set_cons_zero, List.set_cons_succ]
    refine callW (i := 7) (oi := { dst := some 22, op := Op.call { callee := Callee.value (Operand.func 25), args := #[Operand.tmp 20, Operand.tmp 21], argTypes := #[23, 23] }, type := 23, pos := "curve.go:48", after := #[{ on := 5, ground := Ground.data }, { on := 6, ground := Ground.data }, { on := 4, ground := Ground.chain }], guard := none }) rfl (by kernel_rfl) (by rfl) (exec_callL 25 [.tmp 20, .tmp 21] #[23, 23] rfl [vN xx, vN yy] rfl (CG25 _)) ((C5.out W71).mono ?_)
    rintro e72 W72 ⟨rfl, hb72⟩
    refine ⟨_, rfl, fun _ => hb72.mono HL_71.out, ?_⟩
    have Ngp_72 := Lib.hid (Ngp_71.out.keep hb72)
    have Na8_0_72 := Lib.hid (Na8_0_71.out.keep hb72)
    have Na8_1_72 := Lib.hid (Na8_1_71.out.keep hb72)
    have HF_72 : Hid (Below w.heap.size w W72) := Lib.hid (HF_71.out.trans (hb72.mono HF_71.out.size))
    have HL_72 : Hid (v67.heap.size ≤ W72.heap.size) := Lib.hid (Nat.le_trans HL_71.out hb72.size)
    clear hb72 HL_71 Ngp_71 Na8_0_71 Na8_1_71 HF_71
    simp only [Act.put, List.setIfInBounds_toArray, List.set_cons_zero, List.set_cons_succ]
    refine callW (i := 8) (oi := { dst := some 23, op := Op.call { callee := Callee.value (Operand.func 25), args := #[Operand.tmp 19, Operand.tmp 22], argTypes := #[23, 23] }, type := 23, pos := "curve.go:48", after := #[{ on := 4, ground := Ground.data }, { on := 7, ground := Ground.data }, { on := 7, ground := Ground.chain }], guard := none }) rfl (by kernel_rfl) (by rfl) (exec_callL 25 [.tmp 19, .tmp 22] #[23, 23] rfl [vN dd, vN m] rfl (CG25 _)) ((C6.out W72).mono ?_)
    rintro e73 W73 ⟨rfl, hb73⟩
    refine ⟨_, rfl, fun _ => hb73.mono HL_72.out, ?_⟩
    have Ngp_73 := Lib.hid (Ngp_72.out.keep hb73)
    have Na8_0_73 := Lib.hid (Na8_0_72.out.keep hb73)
    have Na8_1_73 := Lib.hid (Na8_1_72.out.keep hb73)
    have HF_73 : Hid (Below w.heap.size w W73) := Lib.hid (HF_72.out.trans (hb73.mono HF_72.out.size))
    have HL_73 : Hid (v67.heap.size ≤ W73.heap.size) := Lib.hid (Nat.le_trans HL_72.out hb73.size)
    clear hb73 HL_72 Ngp_72 Na8_0_72 Na8_1_72 HF_72
    simp only [Act.put, List.setIfInBounds_toArray, List.set_cons_zero, List.set_cons_succ]
    refine callW (i := 9) (oi := { dst := some 24, op := Op.call { callee := Callee.value (Operand.func 19), args := #[Operand.tmp 18, Operand.tmp 23], argTypes := #[23, 23] }, type := 23, pos := "curve.go:48", after := #[{ on := 3, ground := Ground.data }, { on := 8, ground := Ground.data }, { on := 8, ground := Ground.chain }], guard := none }) rfl (by kernel_rfl) (by rfl) (exec_callL 19 [.tmp 18, .tmp 23] #[23, 23] rfl [vN 1, vN dm] rfl (CG19 _)) ((C7.out W73).mono ?_)
    rintro e74 W74 ⟨rfl, hb74⟩
    refine ⟨_, rfl, fun _ => hb74.mono HL_73.out, ?_⟩
    have Ngp_74 := Lib.hid (Ngp_73.out.keep hb74)
    have Na8_0_74 := Lib.hid (Na8_0_73.out.keep hb74)
    have Na8_1_74 := Lib.hid (Na8_1_73.out.keep hb74)
    have HF_74 : Hid (Below w.heap.size w W74) := Lib.hid (HF_73.out.trans (hb74.mono HF_73.out.size))
    have HL_74 : Hid (v67.heap.size ≤ W74.heap.size) := Lib.hid (Nat.le_trans HL_73.out hb74.size)
    clear hb74 HL_73 Ngp_73 Na8_0_73 Na8_1_73 HF_73
    simp only [Act.put, List.setIfInBounds_toArray, List.set_cons_zero, List.set_cons_succ]
    refine takeAE (i := 10) (oi := { dst := some 25, op := Op.binOp BinOp.eql 23 (Operand.tmp 17) (Operand.tmp 24) 23, type := 4, pos := "curve.go:48", after := #[{ on := 2, ground := Ground.data }, { on := 9, ground := Ground.data }], guard := none }) rfl (by kernel_rfl) (by kernel_rfl) (by kernel_rfl) (fun _ _ _ _ h => nomatch h.1) (by rfl) ?_
    refine ⟨.bool b, fun w' => exec_eq23 (.tmp 17) (.tmp 24) rfl rfl rfl (HE.out w'), ?_⟩
    simp only [Act.put, List.setIfInBounds_toArray, List.set_cons_zero, List.set_cons_succ]
    refine takeAE (i := 11) (oi := { dst := some 2, op := Op.assign (Operand.tmp 25), type := 4, pos := "curve.go:48", after := #[{ on := 10, ground := Ground.data }, { on := 9, ground := Ground.chain }, { on := 0, ground := Ground.phase }, { on := 1, ground := Ground.phase }, { on := 2, ground := Ground.phase }, { on := 3, ground := Ground.phase }, { on := 4, ground := Ground.phase }, { on := 5, ground := Ground.phase }, { on := 6, ground := Ground.phase }, { on := 7, ground := Ground.phase }, { on := 8, ground := Ground.phase }, { on := 9, ground := Ground.phase }, { on := 10, ground := Ground.phase }], guard := none }) rfl (by kernel_rfl) (by kernel_rfl) (by kernel_rfl) (fun _ _ _ _ h => nomatch h.1) (by rfl) ?_
    refine ⟨.bool b, fun w' => exec_moveA (.tmp 25) rfl _ rfl, ?_⟩
    simp only [Act.put, List.setIfInBounds_toArray, List.set_cons_zero, List.set_cons_succ]
    refine doneW (by kernel_rfl) ⟨rfl, ?_⟩ _
    exact ⟨Ngp_74.out, Na8_0_74.out, Na8_1_74.out, HF_74.out, rfl⟩
  rintro a' v75 ⟨h0, h1, h2, hF, rfl⟩
  have Ngp_75 := Lib.hid h0
  have Na8_0_75 := Lib.hid h1
  have Na8_1_75 := Lib.hid h2
  have HF_75 := Lib.hid hF
  clear h0 h1 h2 hF HLT68_0 HLT68_1 HLT68_2 HLO68 Ngp_67 Na8_0_67 Na8_1_67 HF_67
  go_wp2
  go_ret
  exact ⟨rfl, HF_75.out⟩
end Go.Proofs.Ytgdimnbdnepbgaa
/- The curve: Check, Add, Neg. No statement is proved here. -/
namespace Go.Proofs.Ytgdimnbdnepbgaa
open Go.RowKit
set_option linter.unusedVariables false
set_option maxRecDepth 40000
set_option linter.unusedSimpArgs false

set_option maxHeartbeats 4000000 in
theorem Check_core (x y : Nat) (cx cy oc : Bool) (rr : Int) (w : World) (HR : Hid ((if cx && (cy && oc) then (0 : Int) else 2) = rr))
    (H1 : Hid (∀ w, Calls Try.prog 15 #[vN x] w (Gives (.bool cx) w))) (H2 : Hid (∀ w, Calls Try.prog 15 #[vN y] w (Gives (.bool cy) w))) (H3 : Hid (∀ w, Calls Try.prog 79 #[vR [x, y]] w (Gives (.bool oc) w))) :
    Calls Try.prog 40 #[vR [x, y]] w (Gives (.int .i64 rr) w) := by
  have HF_0 : Hid (Below w.heap.size w w) := Lib.hid (Below.refl _ _)
  go_enter Try.func40, Try.ntmps40
  go_wp2_with (first | ((with_reducible show wpList _ _ _ (⟨some 1, .box 35 (.tmp 0), _, _, _, _⟩ :: _) _ _); go_must (refine wpList_box_row rfl 35 (.tmp 0) rfl (bcs (encs [x, y])).toArray rfl ?_; intro u1 ha1 hza1 hga1; have Ngp_1 : Hid (RAt u1 w.heap.size [x, y]) := Lib.hid (⟨_, ha1⟩); have HF_1 : Hid (Below w.heap.size w u1) := Lib.hid (HF_0.out.grown hga1 HF_0.out.size (by simp)); have HGE1 : Hid (w.heap.size ≤ w.heap.size) := Lib.hid HF_0.out.size; clear ha1 hza1 hga1 HF_0)) | ((with_reducible show wpList _ _ _ (⟨_, .load 23 (.tmp 3), _, _, _, _⟩ :: _) _ _); go_must (refine wpList_exec rfl (vN x) (exec_loadF (.tmp 3) rfl (w.heap.size) 0 0 rfl [x, y] x rfl Ngp_1.out rfl) ?_)) | fail)
  refine (H1.out _).mono ?_
  rintro e2 x2 ⟨rfl, hb2⟩
  have Ngp_2 := Lib.hid (Ngp_1.out.keep hb2)
  have HF_2 : Hid (Below w.heap.size w x2) := Lib.hid (HF_1.out.trans (hb2.mono HF_1.out.size))
  clear hb2 Ngp_1 HF_1
  cases cx
  · go_wp2_with fail
    go_ret
    obtain rfl : (2 : Int) = rr := HR.out
    exact ⟨rfl, HF_2.out⟩
  · go_wp2_with (first | ((with_reducible show wpList _ _ _ (⟨_, .load 23 (.tmp 8), _, _, _, _⟩ :: _) _ _); go_must (refine wpList_exec rfl (vN y) (exec_loadF (.tmp 8) rfl (w.heap.size) 1 32 rfl [x, y] y rfl Ngp_2.out rfl) ?_)) | fail)
    refine (H2.out _).mono ?_
    rintro e3 x3 ⟨rfl, hb3⟩
    have Ngp_3 := Lib.hid (Ngp_2.out.keep hb3)
    have HF_3 : Hid (Below w.heap.size w x3) := Lib.hid (HF_2.out.trans (hb3.mono HF_2.out.size))
    clear hb3 Ngp_2 HF_2
    cases cy
    · go_wp2_with fail
      go_ret
      obtain rfl : (2 : Int) = rr := HR.out
      exact ⟨rfl, HF_3.out⟩
    · go_wp2_with (first | ((with_reducible show wpList _ _ _ (⟨_, .load 35 (.tmp 1), _, _, _, _⟩ :: _) _ _); go_must (refine wpList_exec rfl (vR [x, y]) (exec_loadP (.tmp 1) rfl (w.heap.size) x y rfl Ngp_3.out) ?_)) | fail)
      refine (H3.out _).mono ?_
      rintro e4 x4 ⟨rfl, hb4⟩
      have Ngp_4 := Lib.hid (Ngp_3.out.keep hb4)
      have HF_4 : Hid (Below w.heap.size w x4) := Lib.hid (HF_3.out.trans (hb4.mono HF_3.out.size))
      clear hb4 Ngp_3 HF_3
      cases oc
      · go_wp2_with fail
        go_ret
        obtain rfl : (2 : Int) = rr := HR.out
        exact ⟨rfl, HF_4.out⟩
      · go_wp2_with fail
        go_ret
        obtain rfl : (0 : Int) = rr := HR.out
        exact ⟨rfl, HF_4.out⟩

set_option maxHeartbeats 4000000 in
theorem PAdd_core (x1 y1 x2 y2 t1 t2 X Y Z T PX PY : Nat) (w : World)
    (C1 : Hid (∀ w, Calls Try.prog 40 #[vR [x1, y1]] w (Gives (.int .i64 0) w))) (C2 : Hid (∀ w, Calls Try.prog 40 #[vR [x2, y2]] w (Gives (.int .i64 0) w)))
    (HR1 : Hid (∀ (w : World) (g g1 : Nat), RAt w g [0, 0, 0, 0] → RAt w g1 [x1, y1] → g ≠ g1 → Calls Try.prog 80 #[.pointer (some ⟨g, 0, none⟩), .pointer (some ⟨g1, 0, none⟩)] w (SetsR g [x1, y1, 1, t1] w)))
    (HR2 : Hid (∀ (w : World) (g g1 : Nat), RAt w g [0, 0, 0, 0] → RAt w g1 [x2, y2] → g ≠ g1 → Calls Try.prog 80 #[.pointer (some ⟨g, 0, none⟩), .pointer (some ⟨g1, 0, none⟩)] w (SetsR g [x2, y2, 1, t2] w)))
    (HA : Hid (∀ (w : World) (g g1 : Nat), RAt w g [x1, y1, 1, t1] → RAt w g1 [x2, y2, 1, t2] → Calls Try.prog 81 #[.pointer (some ⟨g, 0, none⟩), .pointer (some ⟨g, 0, none⟩), .pointer (some ⟨g1, 0, none⟩)] w (SetsR g [X, Y, Z, T] w)))
    (HP : Hid (∀ (w : World) (g : Nat), RAt w g [X, Y, Z, T] → Calls Try.prog 82 #[.pointer (some ⟨g, 0, none⟩)] w (Gives (vR [PX, PY]) w))) :
    Calls Try.prog 44 #[vR [x1, y1], vR [x2, y2]] w (Gives (vR [PX, PY]) w) := by
  have HF_0 : Hid (Below w.heap.size w w) := Lib.hid (Below.refl _ _)
  go_enter Try.func44, Try.ntmps44
  go_wp2_with (first | ((with_reducible show wpList _ _ _ (⟨some 2, .box 35 (.tmp 0), _, _, _, _⟩ :: _) _ _); go_must (refine wpList_box_row rfl 35 (.tmp 0) rfl (bcs (encs [x1, y1])).toArray rfl ?_; intro u5 ha5 hza5 hga5; have Ngp_5 : Hid (RAt u5 w.heap.size [x1, y1]) := Lib.hid (⟨_, ha5⟩); have HF_5 : Hid (Below w.heap.size w u5) := Lib.hid (HF_0.out.grown hga5 HF_0.out.size (by simp)); have HGE5 : Hid (w.heap.size ≤ w.heap.size) := Lib.hid HF_0.out.size; clear ha5 hza5 hga5 HF_0)) | ((with_reducible show wpList _ _ _ (⟨some 3, .box 35 (.tmp 1), _, _, _, _⟩ :: _) _ _); go_must (refine wpList_box_row rfl 35 (.tmp 1) rfl (bcs (encs [x2, y2])).toArray rfl ?_; intro u6 ha6 hza6 hga6; have Ngp_6 := Lib.hid (Ngp_5.out.grown hga6 (by simp)); have Ngq_6 : Hid (RAt u6 u5.heap.size [x2, y2]) := Lib.hid (⟨_, ha6⟩); have HF_6 : Hid (Below w.heap.size w u6) := Lib.hid (HF_5.out.grown hga6 HF_5.out.size (by simp)); have HNE6_0 : Hid (w.heap.size ≠ u5.heap.size) := Lib.hid (by have := Ngp_5.out.lt; omega); have HGE6 : Hid (w.heap.size ≤ u5.heap.size) := Lib.hid HF_5.out.size; clear ha6 hza6 hga6 Ngp_5 HF_5)) | ((with_reducible show wpList _ _ _ (⟨some 4, .alloc 35, _, _, _, _⟩ :: _) _ _); go_must (refine wpList_alloc_row rfl 35 rfl (.agg (zbs 64)) zero35 ?_; intro u7 ha7 hza7 hga7; have Ngp_7 := Lib.hid (Ngp_6.out.grown hga7 (by simp)); have Ngq_7 := Lib.hid (Ngq_6.out.grown hga7 (by simp)); have Ngr_7 : Hid (RAt u7 u6.heap.size [0, 0]) := Lib.hid (zrow (k := 2) ha7); have HF_7 : Hid (Below w.heap.size w u7) := Lib.hid (HF_6.out.grown hga7 HF_6.out.size (by simp)); have HNE7_1 : Hid (w.heap.size ≠ u6.heap.size) := Lib.hid (by have := Ngp_6.out.lt; omega); have HNE7_2 : Hid (u5.heap.size ≠ u6.heap.size) := Lib.hid (by have := Ngq_6.out.lt; omega); have HGE7 : Hid (w.heap.size ≤ u6.heap.size) := Lib.hid HF_6.out.size; clear ha7 hza7 hga7 Ngp_6 Ngq_6 HF_6)) | ((with_reducible show wpList _ _ _ (⟨_, .load 35 (.tmp 2), _, _, _, _⟩ :: _) _ _); go_must (refine wpList_exec rfl (vR [x1, y1]) (exec_loadP (.tmp 2) rfl (w.heap.size) x1 y1 rfl Ngp_7.out) ?_)) | fail)
  generalize u5.heap.size = gq at *
  generalize u6.heap.size = gr at *
  refine (C1.out _).mono ?_
  rintro e8 x8 ⟨rfl, hb8⟩
  have Ngp_8 := Lib.hid (Ngp_7.out.keep hb8)
  have Ngq_8 := Lib.hid (Ngq_7.out.keep hb8)
  have Ngr_8 := Lib.hid (Ngr_7.out.keep hb8)
  have HF_8 : Hid (Below w.heap.size w x8) := Lib.hid (HF_7.out.trans (hb8.mono HF_7.out.size))
  clear hb8 Ngp_7 Ngq_7 Ngr_7 HF_7
  go_wp2_with (first | ((with_reducible show wpList _ _ _ (⟨_, .load 35 (.tmp 3), _, _, _, _⟩ :: _) _ _); go_must (refine wpList_exec rfl (vR [x2, y2]) (exec_loadP (.tmp 3) rfl (gq) x2 y2 rfl Ngq_8.out) ?_)) | fail)
  refine (C2.out _).mono ?_
  rintro e9 x9 ⟨rfl, hb9⟩
  have Ngp_9 := Lib.hid (Ngp_8.out.keep hb9)
  have Ngq_9 := Lib.hid (Ngq_8.out.keep hb9)
  have Ngr_9 := Lib.hid (Ngr_8.out.keep hb9)
  have HF_9 : Hid (Below w.heap.size w x9) := Lib.hid (HF_8.out.trans (hb9.mono HF_8.out.size))
  clear hb9 Ngp_8 Ngq_8 Ngr_8 HF_8
  go_wp2_with (first | ((with_reducible show wpList _ _ _ (⟨some 5, .alloc 76, _, _, _, _⟩ :: _) _ _); go_must (refine wpList_alloc_row rfl 76 rfl (.agg (zbs 128)) zero76 ?_; intro u10 ha10 hza10 hga10; have Ngp_10 := Lib.hid (Ngp_9.out.grown hga10 (by simp)); have Ngq_10 := Lib.hid (Ngq_9.out.grown hga10 (by simp)); have Ngr_10 := Lib.hid (Ngr_9.out.grown hga10 (by simp)); have Ngu_10 : Hid (RAt u10 x9.heap.size [0, 0, 0, 0]) := Lib.hid (zrow (k := 4) ha10); have HF_10 : Hid (Below w.heap.size w u10) := Lib.hid (HF_9.out.grown hga10 HF_9.out.size (by simp)); have HNE10_3 : Hid (w.heap.size ≠ x9.heap.size) := Lib.hid (by have := Ngp_9.out.lt; omega); have HNE10_4 : Hid (gq ≠ x9.heap.size) := Lib.hid (by have := Ngq_9.out.lt; omega); have HNE10_5 : Hid (gr ≠ x9.heap.size) := Lib.hid (by have := Ngr_9.out.lt; omega); have HGE10 : Hid (w.heap.size ≤ x9.heap.size) := Lib.hid HF_9.out.size; clear ha10 hza10 hga10 Ngp_9 Ngq_9 Ngr_9 HF_9)) | ((with_reducible show wpList _ _ _ (⟨some 6, .alloc 76, _, _, _, _⟩ :: _) _ _); go_must (refine wpList_alloc_row rfl 76 rfl (.agg (zbs 128)) zero76 ?_; intro u11 ha11 hza11 hga11; have Ngp_11 := Lib.hid (Ngp_10.out.grown hga11 (by simp)); have Ngq_11 := Lib.hid (Ngq_10.out.grown hga11 (by simp)); have Ngr_11 := Lib.hid (Ngr_10.out.grown hga11 (by simp)); have Ngu_11 := Lib.hid (Ngu_10.out.grown hga11 (by simp)); have Ngv_11 : Hid (RAt u11 u10.heap.size [0, 0, 0, 0]) := Lib.hid (zrow (k := 4) ha11); have HF_11 : Hid (Below w.heap.size w u11) := Lib.hid (HF_10.out.grown hga11 HF_10.out.size (by simp)); have HNE11_6 : Hid (w.heap.size ≠ u10.heap.size) := Lib.hid (by have := Ngp_10.out.lt; omega); have HNE11_7 : Hid (gq ≠ u10.heap.size) := Lib.hid (by have := Ngq_10.out.lt; omega); have HNE11_8 : Hid (gr ≠ u10.heap.size) := Lib.hid (by have := Ngr_10.out.lt; omega); have HNE11_9 : Hid (x9.heap.size ≠ u10.heap.size) := Lib.hid (by have := Ngu_10.out.lt; omega); have HGE11 : Hid (w.heap.size ≤ u10.heap.size) := Lib.hid HF_10.out.size; clear ha11 hza11 hga11 Ngp_10 Ngq_10 Ngr_10 Ngu_10 HF_10)) | fail)
  generalize x9.heap.size = gu at *
  generalize u10.heap.size = gv at *
  refine (HR1.out _ _ _ Ngu_11.out Ngp_11.out HNE10_3.out.symm).mono ?_
  rintro e12 x12 ⟨rfl, hr12, hk12⟩
  have Ngp_12 := Lib.hid (Ngp_11.out.keeps hk12 (by have := HNE10_3.out; show ¬ _ = _; omega))
  have Ngq_12 := Lib.hid (Ngq_11.out.keeps hk12 (by have := HNE10_4.out; show ¬ _ = _; omega))
  have Ngr_12 := Lib.hid (Ngr_11.out.keeps hk12 (by have := HNE10_5.out; show ¬ _ = _; omega))
  have Ngu_12 : Hid (RAt x12 gu [x1, y1, 1, t1]) := Lib.hid hr12
  have Ngv_12 := Lib.hid (Ngv_11.out.keeps hk12 (by have := HNE11_9.out; show ¬ _ = _; omega))
  have HF_12 : Hid (Below w.heap.size w x12) := Lib.hid (HF_11.out.trans (hk12.below HF_11.out.size (fun k hlt => by have := HGE10.out; show ¬ _ = _; omega)))
  clear hr12 hk12 Ngp_11 Ngq_11 Ngr_11 Ngu_11 Ngv_11 HF_11
  go_wp2_with fail
  refine (HR2.out _ _ _ Ngv_12.out Ngq_12.out HNE11_7.out.symm).mono ?_
  rintro e13 x13 ⟨rfl, hr13, hk13⟩
  have Ngp_13 := Lib.hid (Ngp_12.out.keeps hk13 (by have := HNE11_6.out; show ¬ _ = _; omega))
  have Ngq_13 := Lib.hid (Ngq_12.out.keeps hk13 (by have := HNE11_7.out; show ¬ _ = _; omega))
  have Ngr_13 := Lib.hid (Ngr_12.out.keeps hk13 (by have := HNE11_8.out; show ¬ _ = _; omega))
  have Ngu_13 := Lib.hid (Ngu_12.out.keeps hk13 (by have := HNE11_9.out; show ¬ _ = _; omega))
  have Ngv_13 : Hid (RAt x13 gv [x2, y2, 1, t2]) := Lib.hid hr13
  have HF_13 : Hid (Below w.heap.size w x13) := Lib.hid (HF_12.out.trans (hk13.below HF_12.out.size (fun k hlt => by have := HGE11.out; show ¬ _ = _; omega)))
  clear hr13 hk13 Ngp_12 Ngq_12 Ngr_12 Ngu_12 Ngv_12 HF_12
  go_wp2_with fail
  refine (HA.out _ _ _ Ngu_13.out Ngv_13.out).mono ?_
  rintro e14 x14 ⟨rfl, hr14, hk14⟩
  have Ngp_14 := Lib.hid (Ngp_13.out.keeps hk14 (by have := HNE10_3.out; show ¬ _ = _; omega))
  have Ngq_14 := Lib.hid (Ngq_13.out.keeps hk14 (by have := HNE10_4.out; show ¬ _ = _; omega))
  have Ngr_14 := Lib.hid (Ngr_13.out.keeps hk14 (by have := HNE10_5.out; show ¬ _ = _; omega))
  have Ngu_14 : Hid (RAt x14 gu [X, Y, Z, T]) := Lib.hid hr14
  have Ngv_14 := Lib.hid (Ngv_13.out.keeps hk14 (by have := HNE11_9.out; show ¬ _ = _; omega))
  have HF_14 : Hid (Below w.heap.size w x14) := Lib.hid (HF_13.out.trans (hk14.below HF_13.out.size (fun k hlt => by have := HGE10.out; show ¬ _ = _; omega)))
  clear hr14 hk14 Ngp_13 Ngq_13 Ngr_13 Ngu_13 Ngv_13 HF_13
  go_wp2_with fail
  refine (HP.out _ _ Ngu_14.out).mono ?_
  rintro e15 x15 ⟨rfl, hb15⟩
  have Ngp_15 := Lib.hid (Ngp_14.out.keep hb15)
  have Ngq_15 := Lib.hid (Ngq_14.out.keep hb15)
  have Ngr_15 := Lib.hid (Ngr_14.out.keep hb15)
  have Ngu_15 := Lib.hid (Ngu_14.out.keep hb15)
  have Ngv_15 := Lib.hid (Ngv_14.out.keep hb15)
  have HF_15 : Hid (Below w.heap.size w x15) := Lib.hid (HF_14.out.trans (hb15.mono HF_14.out.size))
  clear hb15 Ngp_14 Ngq_14 Ngr_14 Ngu_14 Ngv_14 HF_14
  go_wp2_with (first | ((with_reducible show wpList _ _ _ (⟨none, .store 35 (.tmp 4) (.tmp 19), _, _, _, _⟩ :: _) _ _); go_must (refine wpList_storeP rfl (.tmp 4) (.tmp 19) rfl (gr) [0, 0] PX PY rfl rfl Ngr_15.out rfl ?_; intro y16 hr16 hg16 hz16; have Ngp_16 := Lib.hid (Ngp_15.out.grown hg16 (by have := HNE7_1.out; simp; omega)); have Ngq_16 := Lib.hid (Ngq_15.out.grown hg16 (by have := HNE7_2.out; simp; omega)); have Ngr_16 : Hid (RAt y16 gr [PX, PY]) := Lib.hid hr16; have Ngu_16 := Lib.hid (Ngu_15.out.grown hg16 (by have := HNE10_5.out; simp; omega)); have Ngv_16 := Lib.hid (Ngv_15.out.grown hg16 (by have := HNE11_8.out; simp; omega)); have HF_16 : Hid (Below w.heap.size w y16) := Lib.hid (HF_15.out.grown hg16 HF_15.out.size (fun r hr => by injection hr with hr; have := HGE7.out; omega)); clear hr16 hg16 hz16 Ngp_15 Ngq_15 Ngr_15 Ngu_15 Ngv_15 HF_15)) | fail)
  go_wp2_with fail
  obtain ⟨tr, htr⟩ := Ngr_16.out
  refine bodyPost_ret (results_cell_row rfl _ _ gr tr (bcs (encs [PX, PY])).toArray _ _ rfl htr Try.underlying35 rfl (by rw [List.size_toArray, bcs_len, encs_len]; exact size35)) rfl ?_
  exact ⟨rfl, HF_16.out⟩

set_option maxHeartbeats 4000000 in
theorem PAdd_bad1 (x1 y1 x2 y2 : Nat) (w : World) (C1 : Hid (∀ w, Calls Try.prog 40 #[vR [x1, y1]] w (Gives (.int .i64 2) w)))
    (CZ : Hid (∀ w, Calls Try.prog 39 #[] w (Gives (vR [0, 1]) w))) :
    Calls Try.prog 44 #[vR [x1, y1], vR [x2, y2]] w (Gives (vR [0, 1]) w) := by
  have HF_0 : Hid (Below w.heap.size w w) := Lib.hid (Below.refl _ _)
  go_enter Try.func44, Try.ntmps44
  go_wp2_with (first | ((with_reducible show wpList _ _ _ (⟨some 2, .box 35 (.tmp 0), _, _, _, _⟩ :: _) _ _); go_must (refine wpList_box_row rfl 35 (.tmp 0) rfl (bcs (encs [x1, y1])).toArray rfl ?_; intro u17 ha17 hza17 hga17; have Ngp_17 : Hid (RAt u17 w.heap.size [x1, y1]) := Lib.hid (⟨_, ha17⟩); have HF_17 : Hid (Below w.heap.size w u17) := Lib.hid (HF_0.out.grown hga17 HF_0.out.size (by simp)); have HGE17 : Hid (w.heap.size ≤ w.heap.size) := Lib.hid HF_0.out.size; clear ha17 hza17 hga17 HF_0)) | ((with_reducible show wpList _ _ _ (⟨some 3, .box 35 (.tmp 1), _, _, _, _⟩ :: _) _ _); go_must (refine wpList_box_row rfl 35 (.tmp 1) rfl (bcs (encs [x2, y2])).toArray rfl ?_; intro u18 ha18 hza18 hga18; have Ngp_18 := Lib.hid (Ngp_17.out.grown hga18 (by simp)); have Ngq_18 : Hid (RAt u18 u17.heap.size [x2, y2]) := Lib.hid (⟨_, ha18⟩); have HF_18 : Hid (Below w.heap.size w u18) := Lib.hid (HF_17.out.grown hga18 HF_17.out.size (by simp)); have HNE18_0 : Hid (w.heap.size ≠ u17.heap.size) := Lib.hid (by have := Ngp_17.out.lt; omega); have HGE18 : Hid (w.heap.size ≤ u17.heap.size) := Lib.hid HF_17.out.size; clear ha18 hza18 hga18 Ngp_17 HF_17)) | ((with_reducible show wpList _ _ _ (⟨some 4, .alloc 35, _, _, _, _⟩ :: _) _ _); go_must (refine wpList_alloc_row rfl 35 rfl (.agg (zbs 64)) zero35 ?_; intro u19 ha19 hza19 hga19; have Ngp_19 := Lib.hid (Ngp_18.out.grown hga19 (by simp)); have Ngq_19 := Lib.hid (Ngq_18.out.grown hga19 (by simp)); have Ngr_19 : Hid (RAt u19 u18.heap.size [0, 0]) := Lib.hid (zrow (k := 2) ha19); have HF_19 : Hid (Below w.heap.size w u19) := Lib.hid (HF_18.out.grown hga19 HF_18.out.size (by simp)); have HNE19_1 : Hid (w.heap.size ≠ u18.heap.size) := Lib.hid (by have := Ngp_18.out.lt; omega); have HNE19_2 : Hid (u17.heap.size ≠ u18.heap.size) := Lib.hid (by have := Ngq_18.out.lt; omega); have HGE19 : Hid (w.heap.size ≤ u18.heap.size) := Lib.hid HF_18.out.size; clear ha19 hza19 hga19 Ngp_18 Ngq_18 HF_18)) | ((with_reducible show wpList _ _ _ (⟨_, .load 35 (.tmp 2), _, _, _, _⟩ :: _) _ _); go_must (refine wpList_exec rfl (vR [x1, y1]) (exec_loadP (.tmp 2) rfl (w.heap.size) x1 y1 rfl Ngp_19.out) ?_)) | fail)
  generalize u17.heap.size = gq at *
  generalize u18.heap.size = gr at *
  refine (C1.out _).mono ?_
  rintro e20 x20 ⟨rfl, hb20⟩
  have Ngp_20 := Lib.hid (Ngp_19.out.keep hb20)
  have Ngq_20 := Lib.hid (Ngq_19.out.keep hb20)
  have Ngr_20 := Lib.hid (Ngr_19.out.keep hb20)
  have HF_20 : Hid (Below w.heap.size w x20) := Lib.hid (HF_19.out.trans (hb20.mono HF_19.out.size))
  clear hb20 Ngp_19 Ngq_19 Ngr_19 HF_19
  go_wp2_with fail
  refine (CZ.out _).mono ?_
  rintro e21 x21 ⟨rfl, hb21⟩
  have Ngp_21 := Lib.hid (Ngp_20.out.keep hb21)
  have Ngq_21 := Lib.hid (Ngq_20.out.keep hb21)
  have Ngr_21 := Lib.hid (Ngr_20.out.keep hb21)
  have HF_21 : Hid (Below w.heap.size w x21) := Lib.hid (HF_20.out.trans (hb21.mono HF_20.out.size))
  clear hb21 Ngp_20 Ngq_20 Ngr_20 HF_20
  go_wp2_with (first | ((with_reducible show wpList _ _ _ (⟨none, .store 35 (.tmp 4) (.tmp 15), _, _, _, _⟩ :: _) _ _); go_must (refine wpList_storeP rfl (.tmp 4) (.tmp 15) rfl (gr) [0, 0] 0 1 rfl rfl Ngr_21.out rfl ?_; intro y22 hr22 hg22 hz22; have Ngp_22 := Lib.hid (Ngp_21.out.grown hg22 (by have := HNE19_1.out; simp; omega)); have Ngq_22 := Lib.hid (Ngq_21.out.grown hg22 (by have := HNE19_2.out; simp; omega)); have Ngr_22 : Hid (RAt y22 gr [0, 1]) := Lib.hid hr22; have HF_22 : Hid (Below w.heap.size w y22) := Lib.hid (HF_21.out.grown hg22 HF_21.out.size (fun r hr => by injection hr with hr; have := HGE19.out; omega)); clear hr22 hg22 hz22 Ngp_21 Ngq_21 Ngr_21 HF_21)) | fail)
  go_wp2_with fail
  obtain ⟨tr, htr⟩ := Ngr_22.out
  refine bodyPost_ret (results_cell_row rfl _ _ gr tr (bcs (encs [0, 1])).toArray _ _ rfl htr Try.underlying35 rfl (by rw [List.size_toArray, bcs_len, encs_len]; exact size35)) rfl ?_
  exact ⟨rfl, HF_22.out⟩

set_option maxHeartbeats 4000000 in
theorem PAdd_bad2 (x1 y1 x2 y2 : Nat) (w : World) (C1 : Hid (∀ w, Calls Try.prog 40 #[vR [x1, y1]] w (Gives (.int .i64 0) w))) (C2 : Hid (∀ w, Calls Try.prog 40 #[vR [x2, y2]] w (Gives (.int .i64 2) w)))
    (CZ : Hid (∀ w, Calls Try.prog 39 #[] w (Gives (vR [0, 1]) w))) :
    Calls Try.prog 44 #[vR [x1, y1], vR [x2, y2]] w (Gives (vR [0, 1]) w) := by
  have HF_0 : Hid (Below w.heap.size w w) := Lib.hid (Below.refl _ _)
  go_enter Try.func44, Try.ntmps44
  go_wp2_with (first | ((with_reducible show wpList _ _ _ (⟨some 2, .box 35 (.tmp 0), _, _, _, _⟩ :: _) _ _); go_must (refine wpList_box_row rfl 35 (.tmp 0) rfl (bcs (encs [x1, y1])).toArray rfl ?_; intro u23 ha23 hza23 hga23; have Ngp_23 : Hid (RAt u23 w.heap.size [x1, y1]) := Lib.hid (⟨_, ha23⟩); have HF_23 : Hid (Below w.heap.size w u23) := Lib.hid (HF_0.out.grown hga23 HF_0.out.size (by simp)); have HGE23 : Hid (w.heap.size ≤ w.heap.size) := Lib.hid HF_0.out.size; clear ha23 hza23 hga23 HF_0)) | ((with_reducible show wpList _ _ _ (⟨some 3, .box 35 (.tmp 1), _, _, _, _⟩ :: _) _ _); go_must (refine wpList_box_row rfl 35 (.tmp 1) rfl (bcs (encs [x2, y2])).toArray rfl ?_; intro u24 ha24 hza24 hga24; have Ngp_24 := Lib.hid (Ngp_23.out.grown hga24 (by simp)); have Ngq_24 : Hid (RAt u24 u23.heap.size [x2, y2]) := Lib.hid (⟨_, ha24⟩); have HF_24 : Hid (Below w.heap.size w u24) := Lib.hid (HF_23.out.grown hga24 HF_23.out.size (by simp)); have HNE24_0 : Hid (w.heap.size ≠ u23.heap.size) := Lib.hid (by have := Ngp_23.out.lt; omega); have HGE24 : Hid (w.heap.size ≤ u23.heap.size) := Lib.hid HF_23.out.size; clear ha24 hza24 hga24 Ngp_23 HF_23)) | ((with_reducible show wpList _ _ _ (⟨some 4, .alloc 35, _, _, _, _⟩ :: _) _ _); go_must (refine wpList_alloc_row rfl 35 rfl (.agg (zbs 64)) zero35 ?_; intro u25 ha25 hza25 hga25; have Ngp_25 := Lib.hid (Ngp_24.out.grown hga25 (by simp)); have Ngq_25 := Lib.hid (Ngq_24.out.grown hga25 (by simp)); have Ngr_25 : Hid (RAt u25 u24.heap.size [0, 0]) := Lib.hid (zrow (k := 2) ha25); have HF_25 : Hid (Below w.heap.size w u25) := Lib.hid (HF_24.out.grown hga25 HF_24.out.size (by simp)); have HNE25_1 : Hid (w.heap.size ≠ u24.heap.size) := Lib.hid (by have := Ngp_24.out.lt; omega); have HNE25_2 : Hid (u23.heap.size ≠ u24.heap.size) := Lib.hid (by have := Ngq_24.out.lt; omega); have HGE25 : Hid (w.heap.size ≤ u24.heap.size) := Lib.hid HF_24.out.size; clear ha25 hza25 hga25 Ngp_24 Ngq_24 HF_24)) | ((with_reducible show wpList _ _ _ (⟨_, .load 35 (.tmp 2), _, _, _, _⟩ :: _) _ _); go_must (refine wpList_exec rfl (vR [x1, y1]) (exec_loadP (.tmp 2) rfl (w.heap.size) x1 y1 rfl Ngp_25.out) ?_)) | fail)
  generalize u23.heap.size = gq at *
  generalize u24.heap.size = gr at *
  refine (C1.out _).mono ?_
  rintro e26 x26 ⟨rfl, hb26⟩
  have Ngp_26 := Lib.hid (Ngp_25.out.keep hb26)
  have Ngq_26 := Lib.hid (Ngq_25.out.keep hb26)
  have Ngr_26 := Lib.hid (Ngr_25.out.keep hb26)
  have HF_26 : Hid (Below w.heap.size w x26) := Lib.hid (HF_25.out.trans (hb26.mono HF_25.out.size))
  clear hb26 Ngp_25 Ngq_25 Ngr_25 HF_25
  go_wp2_with (first | ((with_reducible show wpList _ _ _ (⟨_, .load 35 (.tmp 3), _, _, _, _⟩ :: _) _ _); go_must (refine wpList_exec rfl (vR [x2, y2]) (exec_loadP (.tmp 3) rfl (gq) x2 y2 rfl Ngq_26.out) ?_)) | fail)
  refine (C2.out _).mono ?_
  rintro e27 x27 ⟨rfl, hb27⟩
  have Ngp_27 := Lib.hid (Ngp_26.out.keep hb27)
  have Ngq_27 := Lib.hid (Ngq_26.out.keep hb27)
  have Ngr_27 := Lib.hid (Ngr_26.out.keep hb27)
  have HF_27 : Hid (Below w.heap.size w x27) := Lib.hid (HF_26.out.trans (hb27.mono HF_26.out.size))
  clear hb27 Ngp_26 Ngq_26 Ngr_26 HF_26
  go_wp2_with fail
  refine (CZ.out _).mono ?_
  rintro e28 x28 ⟨rfl, hb28⟩
  have Ngp_28 := Lib.hid (Ngp_27.out.keep hb28)
  have Ngq_28 := Lib.hid (Ngq_27.out.keep hb28)
  have Ngr_28 := Lib.hid (Ngr_27.out.keep hb28)
  have HF_28 : Hid (Below w.heap.size w x28) := Lib.hid (HF_27.out.trans (hb28.mono HF_27.out.size))
  clear hb28 Ngp_27 Ngq_27 Ngr_27 HF_27
  go_wp2_with (first | ((with_reducible show wpList _ _ _ (⟨none, .store 35 (.tmp 4) (.tmp 15), _, _, _, _⟩ :: _) _ _); go_must (refine wpList_storeP rfl (.tmp 4) (.tmp 15) rfl (gr) [0, 0] 0 1 rfl rfl Ngr_28.out rfl ?_; intro y29 hr29 hg29 hz29; have Ngp_29 := Lib.hid (Ngp_28.out.grown hg29 (by have := HNE25_1.out; simp; omega)); have Ngq_29 := Lib.hid (Ngq_28.out.grown hg29 (by have := HNE25_2.out; simp; omega)); have Ngr_29 : Hid (RAt y29 gr [0, 1]) := Lib.hid hr29; have HF_29 : Hid (Below w.heap.size w y29) := Lib.hid (HF_28.out.grown hg29 HF_28.out.size (fun r hr => by injection hr with hr; have := HGE25.out; omega)); clear hr29 hg29 hz29 Ngp_28 Ngq_28 Ngr_28 HF_28)) | fail)
  go_wp2_with fail
  obtain ⟨tr, htr⟩ := Ngr_29.out
  refine bodyPost_ret (results_cell_row rfl _ _ gr tr (bcs (encs [0, 1])).toArray _ _ rfl htr Try.underlying35 rfl (by rw [List.size_toArray, bcs_len, encs_len]; exact size35)) rfl ?_
  exact ⟨rfl, HF_29.out⟩

set_option maxHeartbeats 4000000 in
theorem PNeg_core (x1 y1 m : Nat) (w : World)
    (C1 : Hid (∀ w, Calls Try.prog 40 #[vR [x1, y1]] w (Gives (.int .i64 0) w))) (C0 : Hid (∀ w, Calls Try.prog 23 #[vN x1] w (Gives (vN m) w))) :
    Calls Try.prog 51 #[vR [x1, y1]] w (Gives (vR [m, y1]) w) := by
  have HF_0 : Hid (Below w.heap.size w w) := Lib.hid (Below.refl _ _)
  go_enter Try.func51, Try.ntmps51
  go_wp2_with (first | ((with_reducible show wpList _ _ _ (⟨some 1, .box 35 (.tmp 0), _, _, _, _⟩ :: _) _ _); go_must (refine wpList_box_row rfl 35 (.tmp 0) rfl (bcs (encs [x1, y1])).toArray rfl ?_; intro u30 ha30 hza30 hga30; have Ngp_30 : Hid (RAt u30 w.heap.size [x1, y1]) := Lib.hid (⟨_, ha30⟩); have HF_30 : Hid (Below w.heap.size w u30) := Lib.hid (HF_0.out.grown hga30 HF_0.out.size (by simp)); have HGE30 : Hid (w.heap.size ≤ w.heap.size) := Lib.hid HF_0.out.size; clear ha30 hza30 hga30 HF_0)) | ((with_reducible show wpList _ _ _ (⟨some 2, .alloc 35, _, _, _, _⟩ :: _) _ _); go_must (refine wpList_alloc_row rfl 35 rfl (.agg (zbs 64)) zero35 ?_; intro u31 ha31 hza31 hga31; have Ngp_31 := Lib.hid (Ngp_30.out.grown hga31 (by simp)); have Ngr_31 : Hid (RAt u31 u30.heap.size [0, 0]) := Lib.hid (zrow (k := 2) ha31); have HF_31 : Hid (Below w.heap.size w u31) := Lib.hid (HF_30.out.grown hga31 HF_30.out.size (by simp)); have HNE31_0 : Hid (w.heap.size ≠ u30.heap.size) := Lib.hid (by have := Ngp_30.out.lt; omega); have HGE31 : Hid (w.heap.size ≤ u30.heap.size) := Lib.hid HF_30.out.size; clear ha31 hza31 hga31 Ngp_30 HF_30)) | ((with_reducible show wpList _ _ _ (⟨_, .load 35 (.tmp 1), _, _, _, _⟩ :: _) _ _); go_must (refine wpList_exec rfl (vR [x1, y1]) (exec_loadP (.tmp 1) rfl (w.heap.size) x1 y1 rfl Ngp_31.out) ?_)) | fail)
  generalize u30.heap.size = gr at *
  refine (C1.out _).mono ?_
  rintro e32 x32 ⟨rfl, hb32⟩
  have Ngp_32 := Lib.hid (Ngp_31.out.keep hb32)
  have Ngr_32 := Lib.hid (Ngr_31.out.keep hb32)
  have HF_32 : Hid (Below w.heap.size w x32) := Lib.hid (HF_31.out.trans (hb32.mono HF_31.out.size))
  clear hb32 Ngp_31 Ngr_31 HF_31
  go_wp2_with fail
  have HLT33_0 : Hid (w.heap.size < x32.heap.size) := Lib.hid Ngp_32.out.lt
  have HLT33_1 : Hid (gr < x32.heap.size) := Lib.hid Ngr_32.out.lt
  have HLO33 : Hid (w.heap.size ≤ x32.heap.size) := Lib.hid HF_32.out.size
  refine region_split (fun a' W => RAt W w.heap.size [x1, y1] ∧ RAt W gr [m, y1] ∧ Below w.heap.size w W ∧ a' = ⟨#[vR [x1, y1], .pointer (some ⟨w.heap.size, 0, none⟩), .pointer (some ⟨gr, 0, none⟩), vR [x1, y1], .int .i64 0, .bool false, undef, .pointer (some ⟨w.heap.size, 0, none⟩), vN x1, vN m, .pointer (some ⟨w.heap.size, 32, none⟩), vN y1, vR [m, y1]], []⟩) ?_ ?_
  · refine startW (fun j => j == 6) (x32.heap.size) (by kernel_rfl) ?_
    obtain ⟨D33, hD33⟩ : ∃ D, D = x32.drew := ⟨_, rfl⟩
    rw [← hD33]
    have HL_33 : Hid (x32.heap.size ≤ D33.heap.size) := Lib.hid (by rw [hD33]; exact Nat.le_refl _)
    have Ngp_33 : Hid (RAt D33 w.heap.size [x1, y1]) := Lib.hid (by rw [hD33]; exact Ngp_32.out)
    have Ngr_33 : Hid (RAt D33 gr [0, 0]) := Lib.hid (by rw [hD33]; exact Ngr_32.out)
    have HF_33 : Hid (Below w.heap.size w D33) := Lib.hid (by rw [hD33]; exact below_drewN' HF_32.out 1)
    clear hD33 Ngp_32 Ngr_32 HF_32
    refine takeAE (i := 0) (oi := { dst := some 7, op := Op.fieldAddr 35 (Operand.tmp 1) 0, type := 0, pos := "curve.go:68", after := #[], guard := none }) rfl (by kernel_rfl) (by kernel_rfl) (by kernel_rfl) (fun _ _ _ _ h => nomatch h.1) (by rfl) ?_
    refine ⟨.pointer (some ⟨w.heap.size, 0, none⟩), fun w' => exec_field 35 (.tmp 1) 0 rfl _ 0 rfl (fld35_0 _), ?_⟩
    simp only [Act.put, List.setIfInBounds_toArray, List.set_cons_zero, List.set_cons_succ]
    refine takeT (i := 1) (oi := { dst := some 8, op := Op.load 23 (Operand.tmp 7), type := 23, pos := "curve.go:68", after := #[{ on := 0, ground := Ground.data }], guard := none }) (vN x1) rfl (by kernel_rfl) (by kernel_rfl) (by kernel_rfl) (by kernel_rfl) (by kernel_rfl) (fun _ _ _ h => nomatch h.1) (by rfl) (fun w' hk => exec_loadF (.tmp 7) rfl (w.heap.size) 0 0 rfl [x1, y1] x1 rfl (Ngp_33.out.below hk HLT33_0.out) rfl) ?_
    simp only [Act.put, List.setIfInBounds_toArray, List.set_cons_zero, List.set_cons_succ]
    refine takeAE (i := 3) (oi := { dst := some 10, op := Op.fieldAddr 35 (Operand.tmp 1) 1, type := 0, pos := "curve.go:68", after := #[], guard := none }) rfl (by kernel_rfl) (by kernel_rfl) (by kernel_rfl) (fun _ _ _ _ h => nomatch h.1) (by rfl) ?_
    refine ⟨.pointer (some ⟨w.heap.size, 32, none⟩), fun w' => exec_field 35 (.tmp 1) 1 rfl _ 32 rfl (fld35_1 _), ?_⟩
    simp only [Act.put, List.setIfInBounds_toArray, List.set_cons_zero, List.set_cons_succ]
    refine takeT (i := 4) (oi := { dst := some 11, op := Op.load 23 (Operand.tmp 10), type := 23, pos := "curve.go:68", after := #[{ on := 3, ground := Ground.data }], guard := none }) (vN y1) rfl (by kernel_rfl) (by kernel_rfl) (by kernel_rfl) (by kernel_rfl) (by kernel_rfl) (fun _ _ _ h => nomatch h.1) (by rfl) (fun w' hk => exec_loadF (.tmp 10) rfl (w.heap.size) 1 32 rfl [x1, y1] y1 rfl (Ngp_33.out.below hk HLT33_0.out) rfl) ?_
    simp only [Act.put, List.setIfInBounds_toArray, List.set_cons_zero, List.set_cons_succ]
    refine callW (i := 2) (oi := { dst := some 9, op := Op.call { callee := Callee.value (Operand.func 23), args := #[Operand.tmp 8], argTypes := #[23] }, type := 23, pos := "curve.go:68", after := #[{ on := 1, ground := Ground.data }], guard := none }) rfl (by kernel_rfl) (by rfl) (exec_callL 23 [.tmp 8] #[23] rfl [vN x1] rfl (CG23 _)) ((C0.out D33).mono ?_)
    rintro e34 W34 ⟨rfl, hb34⟩
    refine ⟨_, rfl, fun _ => hb34.mono HL_33.out, ?_⟩
    have Ngp_34 := Lib.hid (Ngp_33.out.keep hb34)
    have Ngr_34 := Lib.hid (Ngr_33.out.keep hb34)
    have HF_34 : Hid (Below w.heap.size w W34) := Lib.hid (HF_33.out.trans (hb34.mono HF_33.out.size))
    have HL_34 : Hid (x32.heap.size ≤ W34.heap.size) := Lib.hid (Nat.le_trans HL_33.out hb34.size)
    clear hb34 HL_33 Ngp_33 Ngr_33 HF_33
    simp only [Act.put, List.setIfInBounds_toArray, List.set_cons_zero, List.set_cons_succ]
    refine takeAE (i := 5) (oi := { dst := some 12, op := Op.build 35 #[(0, Operand.tmp 9), (1, Operand.tmp 11)], type := 35, pos := "curve.go:68", after := #[{ on := 2, ground := Ground.data }, { on := 4, ground := Ground.data }], guard := none }) rfl (by kernel_rfl) (by kernel_rfl) (by kernel_rfl) (fun _ _ _ _ h => nomatch h.1) (by rfl) ?_
    refine ⟨vR [m, y1], fun w' => exec_build35 (.tmp 9) (.tmp 11) m y1 rfl rfl rfl, ?_⟩
    simp only [Act.put, List.setIfInBounds_toArray, List.set_cons_zero, List.set_cons_succ]
    refine storeW_P (i := 6) (oi := { dst := none, op := Op.store 35 (Operand.tmp 2) (Operand.tmp 12), type := 0, pos := "curve.go:68", after := #[{ on := 5, ground := Ground.data }, { on := 2, ground := Ground.chain }, { on := 0, ground := Ground.phase }, { on := 1, ground := Ground.phase }, { on := 2, ground := Ground.phase }, { on := 3, ground := Ground.phase }, { on := 4, ground := Ground.phase }, { on := 5, ground := Ground.phase }], guard := none }) rfl (by kernel_rfl) (by rfl) (.tmp 2) (.tmp 12) rfl (gr) [0, 0] m y1 rfl rfl Ngr_34.out rfl rfl ?_
    intro W35 hr35 hg35 hz35
    simp only [Act.put, List.setIfInBounds_toArray, List.set_cons_zero, List.set_cons_succ]
    have Ngp_35 := Lib.hid (Ngp_34.out.grown hg35 (by have := HNE31_0.out; simp; omega))
    have Ngr_35 : Hid (RAt W35 gr [m, y1]) := Lib.hid hr35
    have HF_35 : Hid (Below w.heap.size w W35) := Lib.hid (HF_34.out.grown hg35 HF_34.out.size (fun r hr => by injection hr with hr; have := HGE31.out; omega))
    have HL_35 : Hid (x32.heap.size ≤ W35.heap.size) := Lib.hid (Nat.le_trans HL_34.out hg35.size)
    clear hr35 hg35 hz35 HL_34 Ngp_34 Ngr_34 HF_34
    refine doneW (by kernel_rfl) ⟨rfl, ?_⟩ _
    exact ⟨Ngp_35.out, Ngr_35.out, HF_35.out, rfl⟩
  rintro a' v36 ⟨h0, h1, hF, rfl⟩
  have Ngp_36 := Lib.hid h0
  have Ngr_36 := Lib.hid h1
  have HF_36 := Lib.hid hF
  clear h0 h1 hF HLT33_0 HLT33_1 HLO33 Ngp_32 Ngr_32 HF_32
  go_wp2_with fail
  obtain ⟨tr, htr⟩ := Ngr_36.out
  refine bodyPost_ret (results_cell_row rfl _ _ gr tr (bcs (encs [m, y1])).toArray _ _ rfl htr Try.underlying35 rfl (by rw [List.size_toArray, bcs_len, encs_len]; exact size35)) rfl ?_
  exact ⟨rfl, HF_36.out⟩

set_option maxHeartbeats 4000000 in
theorem PNeg_bad (x1 y1 : Nat) (w : World)
    (C1 : Hid (∀ w, Calls Try.prog 40 #[vR [x1, y1]] w (Gives (.int .i64 2) w))) (CZ : Hid (∀ w, Calls Try.prog 39 #[] w (Gives (vR [0, 1]) w))) :
    Calls Try.prog 51 #[vR [x1, y1]] w (Gives (vR [0, 1]) w) := by
  have HF_0 : Hid (Below w.heap.size w w) := Lib.hid (Below.refl _ _)
  go_enter Try.func51, Try.ntmps51
  go_wp2_with (first | ((with_reducible show wpList _ _ _ (⟨some 1, .box 35 (.tmp 0), _, _, _, _⟩ :: _) _ _); go_must (refine wpList_box_row rfl 35 (.tmp 0) rfl (bcs (encs [x1, y1])).toArray rfl ?_; intro u37 ha37 hza37 hga37; have Ngp_37 : Hid (RAt u37 w.heap.size [x1, y1]) := Lib.hid (⟨_, ha37⟩); have HF_37 : Hid (Below w.heap.size w u37) := Lib.hid (HF_0.out.grown hga37 HF_0.out.size (by simp)); have HGE37 : Hid (w.heap.size ≤ w.heap.size) := Lib.hid HF_0.out.size; clear ha37 hza37 hga37 HF_0)) | ((with_reducible show wpList _ _ _ (⟨some 2, .alloc 35, _, _, _, _⟩ :: _) _ _); go_must (refine wpList_alloc_row rfl 35 rfl (.agg (zbs 64)) zero35 ?_; intro u38 ha38 hza38 hga38; have Ngp_38 := Lib.hid (Ngp_37.out.grown hga38 (by simp)); have Ngr_38 : Hid (RAt u38 u37.heap.size [0, 0]) := Lib.hid (zrow (k := 2) ha38); have HF_38 : Hid (Below w.heap.size w u38) := Lib.hid (HF_37.out.grown hga38 HF_37.out.size (by simp)); have HNE38_0 : Hid (w.heap.size ≠ u37.heap.size) := Lib.hid (by have := Ngp_37.out.lt; omega); have HGE38 : Hid (w.heap.size ≤ u37.heap.size) := Lib.hid HF_37.out.size; clear ha38 hza38 hga38 Ngp_37 HF_37)) | ((with_reducible show wpList _ _ _ (⟨_, .load 35 (.tmp 1), _, _, _, _⟩ :: _) _ _); go_must (refine wpList_exec rfl (vR [x1, y1]) (exec_loadP (.tmp 1) rfl (w.heap.size) x1 y1 rfl Ngp_38.out) ?_)) | fail)
  generalize u37.heap.size = gr at *
  refine (C1.out _).mono ?_
  rintro e39 x39 ⟨rfl, hb39⟩
  have Ngp_39 := Lib.hid (Ngp_38.out.keep hb39)
  have Ngr_39 := Lib.hid (Ngr_38.out.keep hb39)
  have HF_39 : Hid (Below w.heap.size w x39) := Lib.hid (HF_38.out.trans (hb39.mono HF_38.out.size))
  clear hb39 Ngp_38 Ngr_38 HF_38
  go_wp2_with fail
  refine (CZ.out _).mono ?_
  rintro e40 x40 ⟨rfl, hb40⟩
  have Ngp_40 := Lib.hid (Ngp_39.out.keep hb40)
  have Ngr_40 := Lib.hid (Ngr_39.out.keep hb40)
  have HF_40 : Hid (Below w.heap.size w x40) := Lib.hid (HF_39.out.trans (hb40.mono HF_39.out.size))
  clear hb40 Ngp_39 Ngr_39 HF_39
  go_wp2_with (first | ((with_reducible show wpList _ _ _ (⟨none, .store 35 (.tmp 2) (.tmp 6), _, _, _, _⟩ :: _) _ _); go_must (refine wpList_storeP rfl (.tmp 2) (.tmp 6) rfl (gr) [0, 0] 0 1 rfl rfl Ngr_40.out rfl ?_; intro y41 hr41 hg41 hz41; have Ngp_41 := Lib.hid (Ngp_40.out.grown hg41 (by have := HNE38_0.out; simp; omega)); have Ngr_41 : Hid (RAt y41 gr [0, 1]) := Lib.hid hr41; have HF_41 : Hid (Below w.heap.size w y41) := Lib.hid (HF_40.out.grown hg41 HF_40.out.size (fun r hr => by injection hr with hr; have := HGE38.out; omega)); clear hr41 hg41 hz41 Ngp_40 Ngr_40 HF_40)) | fail)
  go_wp2_with fail
  obtain ⟨tr, htr⟩ := Ngr_41.out
  refine bodyPost_ret (results_cell_row rfl _ _ gr tr (bcs (encs [0, 1])).toArray _ _ rfl htr Try.underlying35 rfl (by rw [List.size_toArray, bcs_len, encs_len]; exact size35)) rfl ?_
  exact ⟨rfl, HF_41.out⟩
end Go.Proofs.Ytgdimnbdnepbgaa
