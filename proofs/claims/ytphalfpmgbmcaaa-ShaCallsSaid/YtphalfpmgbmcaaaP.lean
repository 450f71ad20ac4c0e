/- Wide numbers, plainly, and their products. No statement is proved here. -/
import Derived.Test.YtphalfpmgbmcaaaN
namespace Go.Proofs.Ytphalfpmgbmcaaa
open Go.RowKit
set_option linter.unusedVariables false

/-- Two to the 64. -/
def X64 : Nat := 18446744073709551616
/-- The four words of a number. -/
def wl (n : Nat) : List Nat := [n % X64, n / X64 % X64, n / X64 ^ 2 % X64, n / X64 ^ 3 % X64]
/-- The number of words, the lowest first. -/
def val : List Nat → Nat
  | [] => 0
  | x :: l => x + X64 * val l
theorem X64_pos : 0 < X64 := by unfold X64; omega
theorem wl_len (n : Nat) : (wl n).length = 4 := rfl
theorem wl_lt (n : Nat) : ∀ x ∈ wl n, x < X64 := by
  intro x hx
  simp only [wl, List.mem_cons, List.not_mem_nil, or_false] at hx
  rcases hx with rfl | rfl | rfl | rfl <;> exact Nat.mod_lt _ X64_pos
theorem val_wl (n : Nat) : val (wl n) = n % X64 ^ 4 := by
  simp only [wl, val]
  unfold X64
  omega
theorem wl_val (l : List Nat) (hl : l.length = 4) (hb : ∀ x ∈ l, x < X64) : wl (val l) = l := by
  match l, hl with
  | [a, b, c, d], _ =>
    have ha := hb a (by simp)
    have hb' := hb b (by simp)
    have hc := hb c (by simp)
    have hd := hb d (by simp)
    simp only [wl, val]
    unfold X64 at *
    congr 1
    · omega
    congr 1
    · omega
    congr 1
    · omega
    congr 1
    omega
theorem wl_mod (n : Nat) : wl (n % X64 ^ 4) = wl n := by
  rw [← val_wl]
  exact wl_val _ (wl_len n) (wl_lt n)
theorem wl_eq {a b : Nat} (h : a % X64 ^ 4 = b % X64 ^ 4) : wl a = wl b := by rw [← wl_mod a, h, wl_mod]
theorem val_set (l : List Nat) (k x : Nat) (hk : k < l.length) : val (l.set k x) + l.getD k 0 * X64 ^ k = val l + x * X64 ^ k := by
  induction l generalizing k with
  | nil => simp at hk
  | cons y l ih =>
    cases k with
    | zero => simp [val]; omega
    | succ k =>
      have := ih k (by simpa using hk)
      simp only [List.set_cons_succ, val, List.getD_cons_succ, Nat.pow_succ]
      have e : ∀ z, z * (X64 ^ k * X64) = X64 * (z * X64 ^ k) := fun z => by rw [← Nat.mul_assoc, Nat.mul_comm]
      rw [e, e]
      have h2 : X64 * val (l.set k x) + X64 * (l.getD k 0 * X64 ^ k) = X64 * val l + X64 * (x * X64 ^ k) := by rw [← Nat.mul_add, ← Nat.mul_add, this]
      omega
theorem set_lt {l : List Nat} (h : ∀ x ∈ l, x < X64) (k x : Nat) (hx : x < X64) : ∀ y ∈ l.set k x, y < X64 := by
  intro y hy
  rcases List.mem_or_eq_of_mem_set hy with hy | rfl
  · exact h y hy
  · exact hx
/-- One step of a product: the word that stays and the carry. -/
theorem mac (a b c o : Nat) (ha : a < X64) (hb : b < X64) (hc : c < X64) (ho : o < X64) :
    a * b + c + o < X64 * X64 ∧
    (o + (a * b % X64 + c + 0) % X64 + 0) % X64 = (a * b + c + o) % X64 ∧ a * b / X64 + (a * b % X64 + c + 0) / X64 + (o + (a * b % X64 + c + 0) % X64 + 0) / X64 = (a * b + c + o) / X64 := by
  have h1 : a * b ≤ (X64 - 1) * (X64 - 1) := Nat.mul_le_mul (by omega) (by omega)
  generalize a * b = p at *
  unfold X64 at *
  omega
/-- The number of the low words. -/
theorem val_get (n k : Nat) (hk : k < 4) : n % X64 ^ (k + 1) = n % X64 ^ k + (wl n).getD k 0 * X64 ^ k := by
  match k, hk with
  | 0, _ => simp [wl, Nat.mod_one]
  | 1, _ => simp only [wl, List.getD_cons_succ, List.getD_cons_zero]; unfold X64; omega
  | 2, _ => simp only [wl, List.getD_cons_succ, List.getD_cons_zero]; unfold X64; omega
  | 3, _ => simp only [wl, List.getD_cons_succ, List.getD_cons_zero]; unfold X64; omega
end Go.Proofs.Ytphalfpmgbmcaaa
