/- Regions whose order is drawn and that make and fill rows of numbers: steps. No statement is proved here. -/
import Derived.Test.YtgdimnbdnepbgaaFW
namespace Go.Proofs.Ytgdimnbdnepbgaa
open Go.RowKit
set_option linter.unusedVariables false
set_option maxRecDepth 40000

/-- A row of a number, zero as yet. -/
def ZAt (w : World) (g : Nat) : Prop := w.heap[g]? = some (.cells (zbs 32) 23 (0, 0))
theorem ZAt.lt {w : World} {g : Nat} (h : ZAt w g) : g < w.heap.size := (Array.getElem?_eq_some_iff.1 h).1
theorem ZAt.keep {w w' : World} {g : Nat} (h : ZAt w g) (hb : Below w.heap.size w w') : ZAt w' g := (hb.block g h.lt).trans h
theorem ZAt.grown {w w' : World} {g : Nat} {row : Option Nat} (h : ZAt w g) (hb : w.grownBy w' row) (hg : some g ≠ row) : ZAt w' g := (hb.block g h.lt hg).trans h
theorem alloc_zero (w : World) : ∃ w', w' = w.alloc (.cells (Value.agg (zbs 32)).cells 23) ∧ Below w.heap.size w w' ∧ ZAt w' w.heap.size := ⟨_, rfl, below_alloc _ _, heap_alloc_new _ _⟩
theorem exec_callL {P : Program} {o : Oper} {a : Act} {w : World} (f : FuncId) (xs : List Operand) (ts : Array TypeId) (ho : o.op = .call { callee := .value (.func f), args := xs.toArray, argTypes := ts }) (args : List Value) (hx : xs.map a.eval = args) (hcf : ∀ w, (callFunc f args.toArray).run P w = .ok (.enter f args.toArray) w) : (execOp a.eval o).run P w = .ok (.enter f args.toArray) w :=
  exec_call f xs.toArray ts ho args.toArray (by rw [List.map_toArray, hx]) hcf
theorem exec_move {P : Program} {o : Oper} {a : Act} {w : World} (x : Operand) (ho : o.op = .move x) (v : Value) (hx : a.eval x = v) : (execOp a.eval o).run P w = .ok (.value v) w := by
  unfold execOp
  simp only [ho, hx, Sem.run_pure]
theorem exec_moveA {P : Program} {o : Oper} {a : Act} {w : World} (x : Operand) (ho : o.op = .assign x) (v : Value) (hx : a.eval x = v) : (execOp a.eval o).run P w = .ok (.value v) w := by
  unfold execOp
  simp only [ho, hx, Sem.run_pure]
theorem region_split {P : Program} {c : Code} {Q : Exit → Act → World → Prop} {a : Act} {w : World} (R : Act → World → Prop) (h1 : c.wp P (fun x a w => x = .normal ∧ R a w) a w) (h2 : ∀ a w, R a w → Q .normal a w) : c.wp P Q a w :=
  wp_mono h1 fun e a w ⟨he, hr⟩ => by subst he; exact h2 a w hr
end Go.Proofs.Ytgdimnbdnepbgaa
