/- Numbers are ordered as their bytes. No Go in sight but the comparison of bytes. No statement is proved here. -/
import Derived.Test.YtbcalhhfcnbppaaM
import GoSem.Op.String
namespace Go.Proofs.Ytbcalhhfcnbppaa
open Go

theorem less_irrefl : ∀ l : List UInt8, Op.bytesLess l l = false
  | [] => rfl
  | a :: l => by simp [Op.bytesLess, less_irrefl l, UInt8.lt_irrefl]
theorem less_asymm : ∀ a b : List UInt8, Op.bytesLess a b = true → Op.bytesLess b a = false
  | _, [], h => by simp [Op.bytesLess] at h
  | [], _ :: _, _ => by simp [Op.bytesLess]
  | x :: a, y :: b, h => by
    simp only [Op.bytesLess, Bool.or_eq_true, Bool.and_eq_true, decide_eq_true_eq, beq_iff_eq] at h
    rcases h with h | ⟨rfl, h⟩
    · have h1 : ¬ y < x := by rw [UInt8.lt_iff_toNat_lt] at *; omega
      have h2 : ¬ y = x := by rintro rfl; rw [UInt8.lt_iff_toNat_lt] at h; omega
      simp [Op.bytesLess, h1, h2]
    · simp [Op.bytesLess, UInt8.lt_irrefl, less_asymm a b h]
theorem less_ne {a b : List UInt8} (h : Op.bytesLess a b = true) : a ≠ b := by
  rintro rfl
  rw [less_irrefl] at h
  cases h

/-- The low bytes of two numbers that agree above them. -/
theorem less_be (n m : Nat) : ∀ k, n / 256 ^ k = m / 256 ^ k → n < m → Op.bytesLess (be n k) (be m k) = true
  | 0, h, hlt => by simp at h; omega
  | k + 1, h, hlt => by
    have hq : n / 256 ^ k / 256 = m / 256 ^ k / 256 := by
      rw [Nat.div_div_eq_div_mul, Nat.div_div_eq_div_mul, ← Nat.pow_succ]; exact h
    have hle : n / 256 ^ k ≤ m / 256 ^ k := Nat.div_le_div_right (by omega)
    show Op.bytesLess (UInt8.ofNat (n / 256 ^ k) :: be n k) (UInt8.ofNat (m / 256 ^ k) :: be m k) = true
    simp only [Op.bytesLess, Bool.or_eq_true, Bool.and_eq_true, decide_eq_true_eq, beq_iff_eq]
    by_cases e : n / 256 ^ k = m / 256 ^ k
    · exact .inr ⟨by rw [e], less_be n m k e hlt⟩
    · refine .inl ?_
      rw [UInt8.lt_iff_toNat_lt, UInt8.toNat_ofNat', UInt8.toNat_ofNat']
      generalize n / 256 ^ k = x at *
      generalize m / 256 ^ k = y at *
      omega

theorem sz_mono (n m : Nat) (h : n ≤ m) : sz n ≤ sz m := by
  rcases sz_cases n with ⟨e, a⟩ | ⟨e, a, _⟩ | ⟨e, a, _⟩ | ⟨e, a, _⟩ | ⟨e, a, _⟩ | ⟨e, a, _⟩ | ⟨e, a, _⟩ | ⟨e, a, _⟩ | ⟨e, a⟩ <;>
  rcases sz_cases m with ⟨e', a'⟩ | ⟨e', _, a'⟩ | ⟨e', _, a'⟩ | ⟨e', _, a'⟩ | ⟨e', _, a'⟩ | ⟨e', _, a'⟩ | ⟨e', _, a'⟩ | ⟨e', _, a'⟩ | ⟨e', _⟩ <;> omega

theorem head_bound (n : Nat) (h : n < 2 ^ 64) : 256 - 2 ^ (9 - sz n) ≤ 256 - 2 ^ (9 - sz n) + n / 256 ^ (sz n - 1) ∧ 256 - 2 ^ (9 - sz n) + n / 256 ^ (sz n - 1) < 256 - 2 ^ (8 - sz n) + (if sz n = 9 then 1 else 0) := by
  have h1 := head_small n h
  have p1 := sz_pos n
  have p9 := sz_le n
  refine ⟨Nat.le_add_right _ _, ?_⟩
  by_cases h9 : sz n = 9
  · rw [if_pos h9, h9] at *
    simp at h1 ⊢
    omega
  · rw [if_neg h9]
    have e : (2 : Nat) ^ (9 - sz n) = 2 * 2 ^ (8 - sz n) := by rw [show 9 - sz n = (8 - sz n) + 1 from by omega, Nat.pow_succ]; omega
    have h2 : (2 : Nat) ^ (8 - sz n) ≤ 2 ^ 7 := Nat.pow_le_pow_right (by omega) (by omega)
    omega

theorem less_enc (n m : Nat) (hm : m < 2 ^ 64) (h : n < m) : Op.bytesLess (encN n) (encN m) = true := by
  have hs := sz_mono n m (by omega)
  have hn : n < 2 ^ 64 := by omega
  have b1 := head_bound n hn
  have b2 := head_bound m hm
  have p9 := sz_le m
  unfold encN
  simp only [Op.bytesLess, Bool.or_eq_true, Bool.and_eq_true, decide_eq_true_eq, beq_iff_eq]
  have t1 : (UInt8.ofNat (256 - 2 ^ (9 - sz n) + n / 256 ^ (sz n - 1))).toNat = 256 - 2 ^ (9 - sz n) + n / 256 ^ (sz n - 1) := by
    rw [UInt8.toNat_ofNat']
    have := Nat.two_pow_pos (8 - sz n)
    refine Nat.mod_eq_of_lt ?_
    split at b1 <;> omega
  have t2 : (UInt8.ofNat (256 - 2 ^ (9 - sz m) + m / 256 ^ (sz m - 1))).toNat = 256 - 2 ^ (9 - sz m) + m / 256 ^ (sz m - 1) := by
    rw [UInt8.toNat_ofNat']
    have := Nat.two_pow_pos (8 - sz m)
    refine Nat.mod_eq_of_lt ?_
    split at b2 <;> omega
  by_cases e : sz n = sz m
  · rw [e] at t1 b1 ⊢
    have hle : n / 256 ^ (sz m - 1) ≤ m / 256 ^ (sz m - 1) := Nat.div_le_div_right (by omega)
    by_cases e2 : n / 256 ^ (sz m - 1) = m / 256 ^ (sz m - 1)
    · exact .inr ⟨by rw [e2], less_be n m _ e2 h⟩
    · exact .inl (by rw [UInt8.lt_iff_toNat_lt, t1, t2]; omega)
  · refine .inl ?_
    rw [UInt8.lt_iff_toNat_lt, t1, t2]
    have h2 : (2 : Nat) ^ (9 - sz m) ≤ 2 ^ (8 - sz n) := Nat.pow_le_pow_right (by omega) (by omega)
    rw [if_neg (by omega)] at b1
    omega
end Go.Proofs.Ytbcalhhfcnbppaa
