/- Arrays in memory, whole: made, stored, loaded, handed back, without a step a cell. No statement is proved here. -/
import Derived.Test.YtphalfpmgbmcaaaW
namespace Go.Proofs.Ytphalfpmgbmcaaa
open Go.RowKit

/-- So many zero bytes. -/
def zarr (n : Nat) : Array Value := Array.replicate n (.int .u8 0)
theorem zarr_bcs (n : Nat) : (zarr n).toList = bcs (List.replicate n 0) := by simp [zarr, bcs, bc]

section
variable {P : Program} {ops : Array Oper} {rest : List Oper} {o : Oper} {a : Act} {w : World} {Q : Exit → Act → World → Prop}

theorem setRow_grown (w : World) (g : Nat) (cs : Array Value) : w.grownBy (w.setRow g cs) (some g) := by
  refine ⟨rfl, rfl, rfl, by simp, fun k _ hne => ?_⟩
  have : k ≠ g := fun e => hne (by rw [e])
  simp only [World.setRow, Array.getElem?_modify]
  rw [if_neg (by omega)]

/-- A variable of an array type is made. -/
theorem wpList_alloc_row (hgd : Region.wanted o (yielded ops a.tmps) = true) (elem : TypeId) (ho : o.op = .alloc elem) (z : Value) (hz : ∀ w, (zeroValue elem).run P w = .ok z w)
    (h : ∀ w', w'.heap[w.heap.size]? = some (.cells z.cells elem (0, 0)) → w'.heap.size = w.heap.size + 1 → w.grownBy w' none → wpList P ops Q rest (a.put o.dst (.pointer (some ⟨w.heap.size, 0, none⟩))) w') :
    wpList P ops Q (o :: rest) a w := by
  refine wpList_want hgd fun K hK => ?_
  have hrun : (Instr.alloc elem true (.tuple #[])).run P w = .ok (.pointer (some ⟨w.heap.size, 0, none⟩)) (w.alloc (.cells z.cells elem)) := by
    simp [Instr.alloc, hz, newVar, newRow]
  unfold Oper.wp execOp
  simp only [ho, Sem.run_bind, Sem.run_pure, Result.andThen_ok, hrun]
  exact hK _ _ (h _ (heap_alloc_new w _) (by simp) (World.grownBy_alloc w _ none))

/-- A whole array is stored into a row. -/
theorem wpList_store_row (hgd : Region.wanted o (yielded ops a.tmps) = true) (ty : TypeId) (p x : Operand) (ho : o.op = .store ty p x) (g off : Nat) (hp : a.eval p = .pointer (some ⟨g, off, none⟩)) (cs : Array Value) (hx : a.eval x = .agg cs)
    (t : TypeId) (cur : Array Value) (hg : w.heap[g]? = some (.cells cur t (0, 0))) (hi : (P.info? ty).map (·.size) = some cs.size) (hfit : off + cs.size ≤ cur.size) (h1 : ∀ u ∈ cs.toList, u.oneCell' = true)
    (h : ∀ w', w'.heap[g]? = some (.cells (cur.toList.take off ++ cs.toList ++ cur.toList.drop (off + cs.size)).toArray t (0, 0)) → w.grownBy w' (some g) → w'.heap.size = w.heap.size → wpList P ops Q rest (a.put o.dst undef) w') :
    wpList P ops Q (o :: rest) a w := by
  refine wpList_want hgd fun K hK => ?_
  cases hq : P.info? ty with
  | none => simp [hq] at hi
  | some i =>
    have hs : i.size = cs.size := by simpa [hq] using hi
    have hst := run_storeCells_at P g off t cs.toList 0 cur w hg (by simpa using hfit) h1
    simp only [Nat.add_zero, Array.length_toList] at hst
    have hrun : (Instr.storeAt ty (.pointer (some ⟨g, off, none⟩)) (.agg cs)).run P w = .ok () (w.setRow g (cur.toList.take off ++ cs.toList ++ cur.toList.drop (off + cs.size)).toArray) := by
      simp [Instr.storeAt, Instr.sureAddr, storeVar, sizeOf, typeInfo, hq, hs, Value.cells, hst]
    unfold Oper.wp execOp
    simp only [ho, hp, hx, Sem.run_bind, Sem.run_pure, Result.andThen_ok, hrun]
    exact hK _ _ (h _ (setRow_heap w g cur _ t _ hg) (setRow_grown w g _) (by simp))

/-- A whole array is stored over a whole row. -/
theorem wpList_store_all (hgd : Region.wanted o (yielded ops a.tmps) = true) (ty : TypeId) (p x : Operand) (ho : o.op = .store ty p x) (g : Nat) (hp : a.eval p = .pointer (some ⟨g, 0, none⟩)) (cs : Array Value) (hx : a.eval x = .agg cs)
    (t : TypeId) (cur : Array Value) (hg : w.heap[g]? = some (.cells cur t (0, 0))) (hi : (P.info? ty).map (·.size) = some cs.size) (hfit : cs.size = cur.size) (h1 : ∀ u ∈ cs.toList, u.oneCell' = true)
    (h : ∀ w', w'.heap[g]? = some (.cells cs t (0, 0)) → w.grownBy w' (some g) → w'.heap.size = w.heap.size → wpList P ops Q rest (a.put o.dst undef) w') :
    wpList P ops Q (o :: rest) a w := by
  refine wpList_store_row hgd ty p x ho g 0 hp cs hx t cur hg hi (by omega) h1 fun w' hh hg hs => h w' ?_ hg hs
  rw [hh]
  simp [hfit, List.drop_of_length_le]

/-- A whole array is loaded, wherever it lies. -/
theorem wpList_load_arr (hgd : Region.wanted o (yielded ops a.tmps) = true) (ty : TypeId) (x : Operand) (ho : o.op = .load ty x) (b off : Nat) (hx : a.eval x = .pointer (some ⟨b, off, none⟩))
    (xs : List Value) (hc : ∀ i u, xs[i]? = some u → w.cell? ⟨b, off + i, none⟩ = some u) (d : TypeDesc) (hu : P.underlying ty = some d) (hd : (match d with | .struct _ | .array _ _ => true | _ => false) = true)
    (hi : (P.info? ty).map (·.size) = some xs.length) (h : wpList P ops Q rest (a.put o.dst (.agg xs.toArray)) w) : wpList P ops Q (o :: rest) a w := by
  refine wpList_want hgd fun K hK => ?_
  cases hq : P.info? ty with
  | none => simp [hq] at hi
  | some i =>
    have hs : i.size = xs.length := by simpa [hq] using hi
    have hl : (loadCells ⟨b, off, none⟩ xs.length).run P w = .ok xs.toArray w :=
      run_loadCells_list (P := P) w ⟨b, off, none⟩ xs (fun j v hv => by
        have hadd : (⟨b, off, none⟩ : Addr).add j = ⟨b, off + j, none⟩ := by unfold Addr.add; split <;> simp_all
        rw [hadd]
        exact hc j v hv)
    have hagg : (isAgg ty).run P w = .ok true w := by
      unfold isAgg
      rw [Sem.run_bind, run_underlying hu w]
      cases d <;> simp_all
    have hrun : (Instr.loadAt ty (.pointer (some ⟨b, off, none⟩))).run P w = .ok (.agg xs.toArray) w := by
      simp [Instr.loadAt, Instr.sureAddr, loadVar, Sem.run_bind, hagg, sizeOf, typeInfo, hq, hs, hl]
    unfold Oper.wp execOp
    simp only [ho, hx, Sem.run_bind, Sem.run_pure, Result.andThen_ok, hrun]
    exact hK _ _ h
end
end Go.Proofs.Ytphalfpmgbmcaaa
