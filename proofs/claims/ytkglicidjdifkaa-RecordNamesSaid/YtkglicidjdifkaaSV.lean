/- A region whose order is drawn, in which only some operations (the stores) change what is old: whatever these wait for may be taken first. No statement is proved here. -/
import Derived.Test.YtkglicidjdifkaaSH

namespace Go.Proofs.Ytkglicidjdifkaa
open Go.RowKit
set_option linter.unusedVariables false

section
variable {P : Program} {ops : Array Oper} {Q : Exit → Act → World → Prop} {md : Region.Mode} {W : Nat → Bool} {lo : Nat}

variable {fuel : Nat} {listed : Array Bool} {a : Act} {w : World}
/-- Number i alone may come, and is an append. -/
theorem appW {lo : Nat} {Q : Exit → Act → World → Prop} {fuel : Nat} {listed : Array Bool} {a : Act} {w : World} {i : Nat} {oi : Oper} (hi : ops[i]? = some oi) (hr : Region.ready md ops listed = [i]) (hw : Region.wanted oi (yielded ops a.tmps) = true) (s x : Operand) (ho : oi.op = .call { callee := .builtin .append, args := #[s, x], argTypes := #[26, 26] })
    (v : Value) (l : List UInt8) (hv : a.eval s = v) (hown : OwnB w lo v l) (S : Nat → Prop) (A : Option Addr) (m c : Nat) (ys : List UInt8) (hx : a.eval x = .slice A m c) (hs : Src w S A m (bcs ys))
    (hb : l.length + m ≤ 1099511627776) (hB : lo ≤ w.heap.size)
    (h : ∀ v' w', OwnB w' lo v' (l ++ ys) → Below lo w w' → wpAnyW Try.prog md ops Q W lo fuel (listed.setIfInBounds i true) (a.put oi.dst v') w') : wpAnyW Try.prog md ops Q W lo (fuel + 1) listed a w := by
  obtain ⟨v', w', hr', h1, h2⟩ := run_appB w lo v l oi.type hown S A m c ys hs hb hB
  refine opW v' w' hi hr hw ?_ (fun _ => h2) (h v' w' h1 h2)
  unfold execOp
  simp only [ho, resolve, invoke, builtin, Sem.run_bind, Sem.run_pure, Result.andThen_ok, List.map_toArray, List.map_cons, List.map_nil, hv, hx, hr']
end
end Go.Proofs.Ytkglicidjdifkaa
