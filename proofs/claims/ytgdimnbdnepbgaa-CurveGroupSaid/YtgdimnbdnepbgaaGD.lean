/- Small integers in a walk. No statement is proved here. -/
import Derived.Test.YtgdimnbdnepbgaaGC
namespace Go.Proofs.Ytgdimnbdnepbgaa
open Go.RowKit
set_option linter.unusedVariables false
set_option maxRecDepth 40000
set_option linter.unusedSimpArgs false

theorem wrap64_small (a : Nat) (h : a < 18446744073709551616) : IntKind.u64.wrap (a : Int) = (a : Int) := by rw [IntKind.wrap_u64]; omega
theorem exec_conv {o : Oper} {a : Act} {w : World} (x : Operand) (ho : o.op = .convert 117 24 x) (n : Nat) (hn : n < 18446744073709551616) (hx : a.eval x = .int .u32 n) : (execOp a.eval o).run Try.prog w = .ok (.value (.int .u64 n)) w := by
  have h : (convert 117 24 (.int .u32 n)).run Try.prog w = .ok (.int .u64 (IntKind.u64.wrap n)) w := by kernel_rfl
  rw [wrap64_small n hn] at h
  unfold execOp
  simp only [ho, hx, Sem.run_bind, Sem.run_pure, Result.andThen_ok, h]
theorem exec_bin {P : Program} {o : Oper} {a : Act} {w : World} (op : BinOp) (t u : TypeId) (x y : Operand) (ho : o.op = .binOp op t x y u) (p q r : Value) (hx : a.eval x = p) (hy : a.eval y = q) (hg : (eqGuard op t x y p q).run P w = .ok () w) (hr : (binOp op t p q).run P w = .ok r w) : (execOp a.eval o).run P w = .ok (.value r) w := by
  unfold execOp
  simp only [ho, hx, hy, Sem.run_bind, Sem.run_pure, Result.andThen_ok, hg, hr]
theorem run_add64 {P : Program} (m n : Nat) (h : m + n < 18446744073709551616) (w : World) : (binOp .add 24 (.int .u64 m) (.int .u64 n)).run P w = .ok (.int .u64 ((m + n : Nat) : Int)) w := by
  have e : (binOp .add 24 (.int .u64 m) (.int .u64 n)).run P w = .ok (.int .u64 (IntKind.u64.wrap ((m : Int) + n))) w := rfl
  rw [e]
  congr 2
  rw [IntKind.wrap_u64]; omega
theorem run_mul64 {P : Program} (m n : Nat) (h : m * n < 18446744073709551616) (w : World) : (binOp .mul 24 (.int .u64 m) (.int .u64 n)).run P w = .ok (.int .u64 ((m * n : Nat) : Int)) w := by
  have e : (binOp .mul 24 (.int .u64 m) (.int .u64 n)).run P w = .ok (.int .u64 (IntKind.u64.wrap ((m : Int) * n))) w := rfl
  rw [e]
  congr 2
  rw [show (m : Int) * n = ((m * n : Nat) : Int) from by simp]
  exact wrap64_small _ h
theorem run_sub32 {P : Program} (m n : Nat) (h : n ≤ m) (hm : m < 4294967296) (w : World) : (binOp .sub 117 (.int .u32 m) (.int .u32 n)).run P w = .ok (.int .u32 ((m - n : Nat) : Int)) w := by
  have e : (binOp .sub 117 (.int .u32 m) (.int .u32 n)).run P w = .ok (.int .u32 (IntKind.u32.wrap ((m : Int) - n))) w := rfl
  rw [e]
  congr 2
  rw [IntKind.wrap_u32]; omega
theorem run_rem32 {P : Program} (m : Nat) (w : World) : (binOp .rem 117 (.int .u32 m) (.int .u32 2)).run P w = .ok (.int .u32 ((m % 2 : Nat) : Int)) w := by
  have h : Int.tmod (m : Int) 2 = ((m % 2 : Nat) : Int) := by rw [Int.tmod_eq_emod_of_nonneg (by omega)]; omega
  simp [binOp, Op.intDiv, h]
theorem run_geq32 {P : Program} (m n : Nat) (w : World) : (binOp .geq 117 (.int .u32 m) (.int .u32 n)).run P w = .ok (.bool (decide (n ≤ m))) w := by
  have e : (binOp .geq 117 (.int .u32 m) (.int .u32 n)).run P w = .ok (.bool (decide ((n : Int) ≤ m))) w := rfl
  rw [e]
  congr 2
  simp
theorem run_lss32 {P : Program} (m n : Nat) (w : World) : (binOp .lss 117 (.int .u32 m) (.int .u32 n)).run P w = .ok (.bool (decide (m < n))) w := by
  have e : (binOp .lss 117 (.int .u32 m) (.int .u32 n)).run P w = .ok (.bool (decide ((m : Int) < n))) w := rfl
  rw [e]
  congr 2
  simp
theorem run_eql32 {P : Program} (m n : Nat) (w : World) : (binOp .eql 117 (.int .u32 m) (.int .u32 n)).run P w = .ok (.bool (decide (m = n))) w := by
  have e : (binOp .eql 117 (.int .u32 m) (.int .u32 n)).run P w = .ok (.bool ((m : Int) == n)) w := rfl
  rw [e]
  congr 2
  rw [Bool.eq_iff_iff]
  simp only [beq_iff_eq, decide_eq_true_eq]
  omega
section
variable {ops : Array Oper} {rest : List Oper} {o : Oper} {a : Act} {w0 : World} {Q : Act → Prop}
theorem qb_conv (hw : Region.wanted o (yielded ops a.tmps) = true) (x : Operand) (ho : o.op = .convert 117 24 x) (n : Nat) (hn : n < 18446744073709551616) (hx : a.eval x = .int .u32 n) (h : wpQuiet Try.prog ops (CB w0) Q rest (a.put o.dst (.int .u64 n))) : wpQuiet Try.prog ops (CB w0) Q (o :: rest) a :=
  qb_val hw _ (fun w _ => exec_conv x ho n hn hx) h
theorem qb_bin {P : Program} (hw : Region.wanted o (yielded ops a.tmps) = true) (op : BinOp) (t u : TypeId) (x y : Operand) (ho : o.op = .binOp op t x y u) (p q r : Value) (hx : a.eval x = p) (hy : a.eval y = q) (hg : ∀ w, (eqGuard op t x y p q).run P w = .ok () w) (hr : ∀ w, (binOp op t p q).run P w = .ok r w) (h : wpQuiet P ops (CB w0) Q rest (a.put o.dst r)) : wpQuiet P ops (CB w0) Q (o :: rest) a :=
  qb_val hw _ (fun w _ => exec_bin op t u x y ho p q r hx hy (hg w) (hr w)) h
end
end Go.Proofs.Ytgdimnbdnepbgaa
