/- The product of wide numbers. No statement is proved here. -/
import Derived.Test.YtphalfpmgbmcaaaP
import Derived.Laws.Externs
namespace Go.Proofs.Ytphalfpmgbmcaaa
open Go.RowKit
set_option linter.unusedVariables false

theorem add64_run (x y : Nat) (w : World) :
    (callFunc 31 #[.int .u64 x, .int .u64 y, .int .u64 0]).run Try.prog w =
      .ok (.value (.tuple #[.int .u64 (((x + y + 0) % 18446744073709551616 : Nat) : Int), .int .u64 (((x + y + 0) / 18446744073709551616 : Nat) : Int)])) w := by
  rw [run_callFunc_extern Try.func31 (by kernel_rfl) (by kernel_rfl) (by kernel_rfl) (e := add64Entry) (by kernel_rfl)]
  have h := run_add64 (P := Try.prog) x y 0 (by omega) (by omega) (by omega) (by omega) w
  rw [h]
  simp [Result.andThen]
theorem under62 : Try.prog.underlying 62 = some (.array 4 24) := by kernel_rfl
theorem size62 : (Try.prog.info? 62).map (·.size) = some 4 := by kernel_rfl
theorem zero62 (w : World) : (zeroValue 62).run Try.prog w = .ok (.agg (zw 4)) w := by kernel_rfl

/-- The memory of a product. -/
structure Tm (B : Nat) (w0 : World) (A C : Nat) (o : List Nat) (w : World) : Prop where
  b0 : w.heap[B]? = some (.cells (ucs (wl A)).toArray 62 (0, 0))
  b1 : w.heap[B + 1]? = some (.cells (ucs (wl C)).toArray 62 (0, 0))
  b2 : w.heap[B + 2]? = some (.cells (zw 4) 62 (0, 0))
  b3 : w.heap[B + 3]? = some (.cells (ucs o).toArray 62 (0, 0))
  lt : B + 4 ≤ w.heap.size
  bel : Below B w0 w
  len : o.length = 4
  fit : ∀ x ∈ o, x < X64
theorem Tm.drewN {B : Nat} {w0 : World} {A C : Nat} {o : List Nat} {w : World} (h : Tm B w0 A C o w) (k : Nat) : Tm B w0 A C o (w.drewN k) := ⟨h.b0, h.b1, h.b2, h.b3, h.lt, below_drewN' h.bel k, h.len, h.fit⟩
/-- What the sum is, up to a row and a column. -/
def Inv (A C i j cy : Nat) (o : List Nat) : Prop := (val o + cy * X64 ^ (i + j)) % X64 ^ 4 = ((A % X64 ^ i) * C + (wl A).getD i 0 * X64 ^ i * (C % X64 ^ j)) % X64 ^ 4
theorem word_cell {w : World} {g : Nat} {t : TypeId} {l : List Nat} (h : w.heap[g]? = some (.cells (ucs l).toArray t (0, 0))) (i : Nat) (hi : i < l.length) : w.cell? ⟨g, i, none⟩ = some (.int .u64 (l.getD i 0 : Nat)) := by
  refine row_cells h i _ ?_
  rw [List.toList_toArray, ucs_get, List.getD_eq_getElem?_getD, List.getElem?_eq_getElem hi]
  rfl

theorem Inv.row {A C i cy : Nat} {o : List Nat} (h : Inv A C i (4 - i) cy o) (hi : i < 4) : Inv A C (i + 1) 0 0 o := by
  unfold Inv at *
  rw [show i + (4 - i) = 4 from by omega] at h
  rw [Nat.add_mul_mod_self_right] at h
  rw [Nat.zero_mul, Nat.add_zero, h, Nat.pow_zero, Nat.mod_one, Nat.mul_zero, Nat.add_zero, val_get A i hi, Nat.add_mul]
  have e : X64 ^ 4 = X64 ^ i * X64 ^ (4 - i) := by rw [← Nat.pow_add]; congr 1; omega
  have e2 : X64 ^ i * (C % X64 ^ (4 - i)) = (X64 ^ i * C) % X64 ^ 4 := by rw [e, Nat.mul_mod_mul_left]
  rw [Nat.mul_assoc, e2, Nat.mul_assoc]
  rw [Nat.add_mod (A % X64 ^ i * C) ((wl A).getD i 0 * (X64 ^ i * C % X64 ^ 4)), Nat.add_mod (A % X64 ^ i * C) ((wl A).getD i 0 * (X64 ^ i * C)), Nat.mul_mod ((wl A).getD i 0) (X64 ^ i * C % X64 ^ 4), Nat.mod_mod, ← Nat.mul_mod]
theorem Inv.start {A C : Nat} {o : List Nat} (h : val o = 0) : Inv A C 0 0 0 o := by
  unfold Inv
  simp [h, Nat.mod_one]
theorem Inv.next {A C i : Nat} {o : List Nat} (h : Inv A C i 0 0 o) (cy : Nat) (hc : cy = 0) : Inv A C i 0 cy o := by subst hc; exact h
theorem Inv.done {A C : Nat} {o : List Nat} (h : Inv A C 4 0 0 o) (hl : o.length = 4) (hf : ∀ x ∈ o, x < X64) : o = wl (A * C) := by
  unfold Inv at h
  simp only [Nat.zero_mul, Nat.add_zero, Nat.pow_zero, Nat.mod_one, Nat.mul_zero] at h
  rw [← wl_val o hl hf]
  refine wl_eq (h.trans ?_)
  rw [Nat.mul_mod, Nat.mod_mod, ← Nat.mul_mod]
theorem Inv.col {A C i j cy : Nat} {o : List Nat} (h : Inv A C i j cy o) (hl : o.length = 4) (hk : i + j < 4) :
    Inv A C i (j + 1) (((wl A).getD i 0 * (wl C).getD j 0 + cy + o.getD (i + j) 0) / X64) (o.set (i + j) (((wl A).getD i 0 * (wl C).getD j 0 + cy + o.getD (i + j) 0) % X64)) := by
  unfold Inv at *
  have hv := val_set o (i + j) (((wl A).getD i 0 * (wl C).getD j 0 + cy + o.getD (i + j) 0) % X64) (by omega)
  rw [val_get C j (by omega)]
  generalize (wl A).getD i 0 = a at *
  generalize (wl C).getD j 0 = c at *
  have hT := Nat.div_add_mod (a * c + cy + o.getD (i + j) 0) X64
  generalize hTq : (a * c + cy + o.getD (i + j) 0) / X64 = q at *
  generalize hTr : (a * c + cy + o.getD (i + j) 0) % X64 = r at *
  generalize o.getD (i + j) 0 = ok at *
  have e1 : q * X64 ^ (i + (j + 1)) = X64 * q * X64 ^ (i + j) := by rw [← Nat.add_assoc, Nat.pow_succ, ← Nat.mul_assoc, Nat.mul_right_comm, Nat.mul_comm q]
  have e2 : (X64 * q + r) * X64 ^ (i + j) = (a * c + cy + ok) * X64 ^ (i + j) := by rw [hT]
  have e3 : val (o.set (i + j) r) + q * X64 ^ (i + (j + 1)) = val o + cy * X64 ^ (i + j) + a * c * X64 ^ (i + j) := by
    rw [e1]
    simp only [Nat.add_mul] at e2
    omega
  have e4 : a * X64 ^ i * (C % X64 ^ j + c * X64 ^ j) = a * X64 ^ i * (C % X64 ^ j) + a * c * X64 ^ (i + j) := by
    rw [Nat.mul_add, Nat.pow_add]
    congr 1
    rw [Nat.mul_assoc, Nat.mul_assoc, Nat.mul_left_comm (X64 ^ i) c]
  rw [e3, e4, ← Nat.add_assoc, Nat.add_mod, h, ← Nat.add_mod]
end Go.Proofs.Ytphalfpmgbmcaaa
