/- A call read whole, and a slice of one call. No statement is proved here. -/
import Derived.Test.YtfhjcfoecmbhkaaLE
namespace Go.Proofs.Ytfhjcfoecmbhkaa
open Go.RowKit Go.Maps
set_option linter.unusedVariables false
set_option linter.unusedSimpArgs false
theorem run_build38 (w : World) (v : ActV) : (Instr.buildSlice 38 1 #[(0, .agg v.cells.toArray)]).run Try.prog w = .ok (.slice (some ⟨w.heap.size, 0, none⟩) 1 1) (w.alloc (.cells v.cells.toArray 46)) := by
  obtain ⟨kind, at_, b, long, A, kn, kc, ks⟩ := v
  simp [Instr.buildSlice, ActV.cells, run_underlying Try.underlying38, go_sem]
section
variable {ops : Array Oper} {rest : List Oper} {o : Oper} {a : Act} {w : World} {Q : Exit → Act → World → Prop}
theorem wpList_build38 (hgd : Region.wanted o (yielded ops a.tmps) = true) (x : Operand) (ho : o.op = .buildSlice 38 1 #[(0, x)]) (v : ActV) (hx : a.eval x = .agg v.cells.toArray)
    (h : ∀ w', w'.heap[w.heap.size]? = some (.cells v.cells.toArray 46 (0, 0)) → w'.heap.size = w.heap.size + 1 → w.grownBy w' none → wpList Try.prog ops Q rest (a.put o.dst (.slice (some ⟨w.heap.size, 0, none⟩) 1 1)) w') :
    wpList Try.prog ops Q (o :: rest) a w := by
  refine wpList_exec hgd _ (w' := w.alloc (.cells v.cells.toArray 46)) ?_ (h _ (heap_alloc_new w _) (by simp) (World.grownBy_alloc w _ none))
  unfold execOp
  simp [ho, hx, run_build38]
theorem wpList_load46 (hgd : Region.wanted o (yielded ops a.tmps) = true) (x : Operand) (ho : o.op = .load 46 x) (b off : Nat) (hx : a.eval x = .pointer (some ⟨b, off, none⟩)) (v : ActV) (hc : ∀ j u, v.cells[j]? = some u → w.cell? ⟨b, off + j, none⟩ = some u)
    (h : wpList Try.prog ops Q rest (a.put o.dst (.agg v.cells.toArray)) w) : wpList Try.prog ops Q (o :: rest) a w :=
  wpList_load_arr hgd 46 x ho b off hx v.cells hc _ Try.underlying46 rfl (by rw [size46]; rfl) h
theorem Bx.loads {w : World} {g : Nat} {v : ActV} (h : Bx w g v) : ∀ j u, v.cells[j]? = some u → w.cell? ⟨g, 0 + j, none⟩ = some u := fun j u hj => by
  rw [Nat.zero_add]
  exact h.cells j u hj
theorem acts_one {w : World} {g : Nat} {v : ActV} (h : w.heap[g]? = some (.cells v.cells.toArray 46 (0, 0))) (hv : v.Ok w) : Acts w (some ⟨g, 0, none⟩) 1 [v] := by
  refine ⟨rfl, fun _ => ⟨g, 0, rfl, (Array.getElem?_eq_some_iff.1 h).1, fun i a hi j u hj => ?_⟩, fun a ha => ?_⟩
  · have hi0 : i = 0 := by have := (List.getElem?_eq_some_iff.1 hi).1; simp at this; exact this
    subst hi0
    have : v = a := by simpa using hi
    subst this
    exact (Bx.of h).cells j u hj ▸ (by rw [show 0 + 0 * 5 + j = j from by omega])
  · have : a = v := by simpa using ha
    subst this
    exact hv
end
end Go.Proofs.Ytfhjcfoecmbhkaa
