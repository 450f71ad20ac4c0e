/- The reference's product, walked. No statement is proved here. -/
import Derived.Test.YtphalfpmgbmcaaaT12
import Derived.BigQuiet
namespace Go.Proofs.Ytphalfpmgbmcaaa
open Go.RowKit
set_option linter.unusedVariables false

theorem v32_set (l : List Nat) (k x : Nat) (hk : k < l.length) : v32 (l.set k x) + l.getD k 0 * Y32 ^ k = v32 l + x * Y32 ^ k := by
  induction l generalizing k with
  | nil => simp at hk
  | cons y l ih =>
    cases k with
    | zero => simp [v32]; omega
    | succ k =>
      have := ih k (by simpa using hk)
      simp only [List.set_cons_succ, v32, List.getD_cons_succ, Nat.pow_succ]
      have e : ∀ z, z * (Y32 ^ k * Y32) = Y32 * (z * Y32 ^ k) := fun z => by rw [← Nat.mul_assoc, Nat.mul_comm]
      rw [e, e]
      have h2 : Y32 * v32 (l.set k x) + Y32 * (l.getD k 0 * Y32 ^ k) = Y32 * v32 l + Y32 * (x * Y32 ^ k) := by rw [← Nat.mul_add, ← Nat.mul_add, this]
      omega
theorem Lt32.set {l : List Nat} (h : Lt32 l) (k x : Nat) (hx : x < Y32) : Lt32 (l.set k x) := by
  intro y hy
  rcases List.mem_or_eq_of_mem_set hy with hy | rfl
  · exact h y hy
  · exact hx
theorem v32_take (l : List Nat) (k : Nat) (hk : k < l.length) : v32 (l.take (k + 1)) = v32 (l.take k) + l.getD k 0 * Y32 ^ k := by
  induction l generalizing k with
  | nil => simp at hk
  | cons y l ih =>
    cases k with
    | zero => simp [v32]
    | succ k =>
      have := ih k (by simpa using hk)
      simp only [List.take_succ_cons, v32, List.getD_cons_succ, this, Nat.mul_add, Nat.pow_succ]
      have e : Y32 * (l.getD k 0 * Y32 ^ k) = l.getD k 0 * (Y32 ^ k * Y32) := by rw [← Nat.mul_assoc, Nat.mul_comm Y32, Nat.mul_assoc, Nat.mul_comm Y32]
      omega
theorem v32_zero (n : Nat) : v32 (List.replicate n 0) = 0 := by
  induction n with
  | zero => rfl
  | succ n ih => rw [List.replicate_succ, v32, ih]; rfl
/-- A product, up to row i and column j. -/
structure In32 (a b : List Nat) (i j cy : Nat) (o : List Nat) : Prop where
  eq : v32 o + cy * Y32 ^ (i + j) = v32 (a.take i) * v32 b + a.getD i 0 * Y32 ^ i * v32 (b.take j)
  cy_lt : cy < Y32
  lt : Lt32 o
  len : o.length = a.length + b.length
  hi : ∀ t, i + b.length ≤ t → o.getD t 0 = 0
theorem In32.start (a b : List Nat) : In32 a b 0 0 0 (List.replicate (a.length + b.length) 0) :=
  ⟨by simp [v32_zero, v32], Y32_pos, fun x hx => by rw [List.eq_of_mem_replicate hx]; exact Y32_pos, by simp, fun t _ => by rw [List.getD_eq_getElem?_getD, List.getElem?_replicate]; split <;> rfl⟩
theorem getD_set_ne (l : List Nat) (k x t : Nat) (h : k ≠ t) : (l.set k x).getD t 0 = l.getD t 0 := by
  rw [List.getD_eq_getElem?_getD, List.getElem?_set_ne h, ← List.getD_eq_getElem?_getD]
theorem In32.col {a b o : List Nat} {i j cy : Nat} (h : In32 a b i j cy o) (hi : i < a.length) (hj : j < b.length) (ha : Lt32 a) (hb : Lt32 b) :
    cy + a.getD i 0 * b.getD j 0 + o.getD (i + j) 0 < Y32 * Y32 ∧
    In32 a b i (j + 1) ((cy + a.getD i 0 * b.getD j 0 + o.getD (i + j) 0) / Y32) (o.set (i + j) ((cy + a.getD i 0 * b.getD j 0 + o.getD (i + j) 0) % Y32)) := by
  have hv := v32_set o (i + j) ((cy + a.getD i 0 * b.getD j 0 + o.getD (i + j) 0) % Y32) (by rw [h.len]; omega)
  have hA := ha.get i
  have hB := hb.get j
  have hO := h.lt.get (i + j)
  have hcy := h.cy_lt
  have ht := v32_take b j hj
  have heq := h.eq
  have hTlt : cy + a.getD i 0 * b.getD j 0 + o.getD (i + j) 0 < Y32 * Y32 := by
    have h1 : a.getD i 0 * b.getD j 0 ≤ (Y32 - 1) * (Y32 - 1) := Nat.mul_le_mul (by omega) (by omega)
    generalize a.getD i 0 * b.getD j 0 = p at *
    unfold Y32 at *
    omega
  refine ⟨hTlt, ⟨?_, ?_, h.lt.set _ _ (Nat.mod_lt _ Y32_pos), by rw [List.length_set, h.len], fun t ht => by rw [getD_set_ne _ _ _ _ (by omega)]; exact h.hi t ht⟩⟩
  · rw [ht]
    generalize a.getD i 0 = x at *
    generalize b.getD j 0 = y at *
    have hT := Nat.div_add_mod (cy + x * y + o.getD (i + j) 0) Y32
    generalize (cy + x * y + o.getD (i + j) 0) / Y32 = q at *
    generalize (cy + x * y + o.getD (i + j) 0) % Y32 = r at *
    generalize o.getD (i + j) 0 = ok at *
    have e1 : q * Y32 ^ (i + (j + 1)) = Y32 * q * Y32 ^ (i + j) := by rw [← Nat.add_assoc, Nat.pow_succ, ← Nat.mul_assoc, Nat.mul_right_comm, Nat.mul_comm q]
    have e2 : (Y32 * q + r) * Y32 ^ (i + j) = (cy + x * y + ok) * Y32 ^ (i + j) := by rw [hT]
    have e4 : x * Y32 ^ i * (v32 (b.take j) + y * Y32 ^ j) = x * Y32 ^ i * v32 (b.take j) + x * y * Y32 ^ (i + j) := by
      rw [Nat.mul_add, Nat.pow_add]
      congr 1
      rw [Nat.mul_assoc, Nat.mul_assoc, Nat.mul_left_comm (Y32 ^ i) y]
    rw [e1, e4]
    simp only [Nat.add_mul] at e2
    omega
  · rw [Nat.div_lt_iff_lt_mul Y32_pos]; exact hTlt
theorem In32.row {a b o : List Nat} {i cy : Nat} (h : In32 a b i b.length cy o) (hi : i < a.length) (hb : 0 < b.length) : In32 a b (i + 1) 0 0 (o.set (i + b.length) cy) := by
  have hv := v32_set o (i + b.length) cy (by rw [h.len]; omega)
  have heq := h.eq
  have h0 := h.hi (i + b.length) (by omega)
  rw [h0, Nat.zero_mul, Nat.add_zero] at hv
  refine ⟨?_, Y32_pos, h.lt.set _ _ h.cy_lt, by rw [List.length_set, h.len], fun t ht => by rw [getD_set_ne _ _ _ _ (by omega)]; exact h.hi t (by omega)⟩
  rw [hv, heq, v32_take a i hi, List.take_length, Nat.add_mul]
  simp [v32]
theorem In32.done {a b o : List Nat} (h : In32 a b a.length 0 0 o) : v32 o = v32 a * v32 b := by
  have := h.eq
  simpa [v32] using this
end Go.Proofs.Ytphalfpmgbmcaaa
