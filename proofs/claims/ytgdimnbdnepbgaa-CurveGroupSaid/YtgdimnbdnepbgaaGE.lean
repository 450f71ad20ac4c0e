/- The steps of quiet regions, shut in a structure, so that nothing looks into what is left. No statement is proved here. -/
import Derived.Test.YtgdimnbdnepbgaaGD
namespace Go.Proofs.Ytgdimnbdnepbgaa
open Go.RowKit
set_option linter.unusedVariables false
set_option maxRecDepth 40000
set_option linter.unusedSimpArgs false

structure WQ (P : Program) (ops : Array Oper) (C : World → Prop) (Q : Act → Prop) (l : List Oper) (a : Act) : Prop where
  out : wpQuiet P ops C Q l a
section
variable {P : Program} {ops : Array Oper} {rest : List Oper} {o : Oper} {a : Act} {w0 : World} {Q : Act → Prop}
theorem wq_nil (h : Q a) : WQ P ops (CB w0) Q [] a := ⟨wpQuiet_nil h⟩
theorem wq_skip (hw : Region.wanted o (yielded ops a.tmps) = false) (h : WQ P ops (CB w0) Q rest (a.put o.dst undef)) : WQ P ops (CB w0) Q (o :: rest) a := ⟨qb_skip hw h.out⟩
theorem wq_call (hw : Region.wanted o (yielded ops a.tmps) = true) (f : FuncId) (xs : List Operand) (ts : Array TypeId) (ho : o.op = .call { callee := .value (.func f), args := xs.toArray, argTypes := ts }) (args : List Value) (hx : xs.map a.eval = args) (hcf : ∀ w, (callFunc f args.toArray).run P w = .ok (.enter f args.toArray) w)
    (v : Value) (hc : ∀ w, Calls P f args.toArray w (Gives v w)) (h : WQ P ops (CB w0) Q rest (a.put o.dst v)) : WQ P ops (CB w0) Q (o :: rest) a := ⟨qb_call hw f xs ts ho args hx hcf v hc h.out⟩
theorem wq_move (hw : Region.wanted o (yielded ops a.tmps) = true) (x : Operand) (ho : o.op = .move x) (v : Value) (hx : a.eval x = v) (h : WQ P ops (CB w0) Q rest (a.put o.dst v)) : WQ P ops (CB w0) Q (o :: rest) a := ⟨qb_move hw x ho v hx h.out⟩
theorem wq_assign (hw : Region.wanted o (yielded ops a.tmps) = true) (x : Operand) (ho : o.op = .assign x) (v : Value) (hx : a.eval x = v) (h : WQ P ops (CB w0) Q rest (a.put o.dst v)) : WQ P ops (CB w0) Q (o :: rest) a := ⟨qb_assign hw x ho v hx h.out⟩
theorem wq_pick (hw : Region.wanted o (yielded ops a.tmps) = true) (c x y : Operand) (ho : o.op = .pick c x y) (b : Bool) (hc : a.eval c = .bool b) (v : Value) (hx : (if b then a.eval x else a.eval y) = v) (h : WQ P ops (CB w0) Q rest (a.put o.dst v)) : WQ P ops (CB w0) Q (o :: rest) a := ⟨qb_pick hw c x y ho b hc v hx h.out⟩
theorem wq_not (hw : Region.wanted o (yielded ops a.tmps) = true) (t : TypeId) (x : Operand) (ho : o.op = .unOp .not t x) (b : Bool) (hx : a.eval x = .bool b) (h : WQ P ops (CB w0) Q rest (a.put o.dst (.bool (!b)))) : WQ P ops (CB w0) Q (o :: rest) a := ⟨qb_not hw t x ho b hx h.out⟩
theorem wq_bin (hw : Region.wanted o (yielded ops a.tmps) = true) (op : BinOp) (t u : TypeId) (x y : Operand) (ho : o.op = .binOp op t x y u) (p q r : Value) (hx : a.eval x = p) (hy : a.eval y = q) (hg : ∀ w, (eqGuard op t x y p q).run P w = .ok () w) (hr : ∀ w, (binOp op t p q).run P w = .ok r w) (h : WQ P ops (CB w0) Q rest (a.put o.dst r)) : WQ P ops (CB w0) Q (o :: rest) a := ⟨qb_bin hw op t u x y ho p q r hx hy hg hr h.out⟩
end
section
variable {ops : Array Oper} {rest : List Oper} {o : Oper} {a : Act} {w0 : World} {Q : Act → Prop}
theorem wq_load (hw : Region.wanted o (yielded ops a.tmps) = true) (x : Operand) (ho : o.op = .load 23 x) (g n : Nat) (hx : a.eval x = .pointer (some ⟨g, 0, none⟩)) (hr : NAt w0 g n) (h : WQ Try.prog ops (CB w0) Q rest (a.put o.dst (vN n))) : WQ Try.prog ops (CB w0) Q (o :: rest) a := ⟨qb_load hw x ho g n hx hr h.out⟩
theorem wq_eq (hw : Region.wanted o (yielded ops a.tmps) = true) (x y : Operand) (ho : o.op = .binOp .eql 23 x y 23) (m n : Nat) (hx : a.eval x = vN m) (hy : a.eval y = vN n) (b : Bool) (hb : ∀ w, (Op.equalIn 10000 23 (vN m) (vN n)).run Try.prog w = .ok b w) (h : WQ Try.prog ops (CB w0) Q rest (a.put o.dst (.bool b))) : WQ Try.prog ops (CB w0) Q (o :: rest) a := ⟨qb_eq hw x y ho m n hx hy b hb h.out⟩
theorem wq_neq (hw : Region.wanted o (yielded ops a.tmps) = true) (x y : Operand) (ho : o.op = .binOp .neq 23 x y 23) (m n : Nat) (hx : a.eval x = vN m) (hy : a.eval y = vN n) (b b' : Bool) (hb : ∀ w, (Op.equalIn 10000 23 (vN m) (vN n)).run Try.prog w = .ok b w) (hb' : (!b) = b') (h : WQ Try.prog ops (CB w0) Q rest (a.put o.dst (.bool b'))) : WQ Try.prog ops (CB w0) Q (o :: rest) a := ⟨qb_neq hw x y ho m n hx hy b b' hb hb' h.out⟩
theorem wq_zero (hw : Region.wanted o (yielded ops a.tmps) = true) (ho : o.op = .build 23 #[]) (h : WQ Try.prog ops (CB w0) Q rest (a.put o.dst (vN 0))) : WQ Try.prog ops (CB w0) Q (o :: rest) a := ⟨qb_zero hw ho h.out⟩
theorem wq_eqb {P : Program} (hw : Region.wanted o (yielded ops a.tmps) = true) (x y : Operand) (ho : o.op = .binOp .eql 4 x y 4) (m n b : Bool) (hx : a.eval x = .bool m) (hy : a.eval y = .bool n) (hb : (m == n) = b) (h : WQ Try.prog ops (CB w0) Q rest (a.put o.dst (.bool b))) : WQ Try.prog ops (CB w0) Q (o :: rest) a := ⟨qb_eqb (P := P) hw x y ho m n b hx hy hb h.out⟩
theorem wq_conv (hw : Region.wanted o (yielded ops a.tmps) = true) (x : Operand) (ho : o.op = .convert 117 24 x) (n : Nat) (hn : n < 18446744073709551616) (hx : a.eval x = .int .u32 n) (h : WQ Try.prog ops (CB w0) Q rest (a.put o.dst (.int .u64 n))) : WQ Try.prog ops (CB w0) Q (o :: rest) a := ⟨qb_conv hw x ho n hn hx h.out⟩
theorem region_wq {id : Nat} {Q : Exit → Act → World → Prop} {a : Act} {w : World} {l : List Oper} (hm : Try.prog.follows .mixedOrders = true) (hB : Region.lexB .any l.toArray = true)
    (h : WQ Try.prog l.toArray (CB w) (fun a' => ∀ w', Below w.heap.size w w' → Q .normal a' w') l a) : (Code.region id l.toArray true).wp Try.prog Q a w := region_qb (P := Try.prog) hm hB h.out
theorem exec_extract {P : Program} {o : Oper} {a : Act} {w : World} (x : Operand) (i : Nat) (ho : o.op = .extract x i) (vs : Array Value) (hx : a.eval x = .tuple vs) (v : Value) (hv : vs[i]? = some v) : (execOp a.eval o).run P w = .ok (.value v) w := by
  unfold execOp
  simp only [ho, hx]
  simp [Instr.extract, hv]
/-- Two Bools, unlike. -/
theorem run_neqb {P : Program} (m n : Bool) (w : World) : (binOp .neq 4 (.bool m) (.bool n)).run Try.prog w = .ok (.bool (!(m == n))) w := by
  cases m <;> cases n <;> kernel_rfl
end
end Go.Proofs.Ytgdimnbdnepbgaa
