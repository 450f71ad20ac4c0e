/- The law of roots: the arithmetic. No statement is proved here. -/
import Derived.Test.YtphalfpmgbmcaaaT7
namespace Go.Proofs.Ytphalfpmgbmcaaa
open Go.RowKit
set_option linter.unusedVariables false

theorem sq_mono {a b : Nat} (h : a ≤ b) : a * a ≤ b * b := Nat.mul_le_mul h h
theorem root_split (n s R : Nat) (h1 : R ^ 2 ≤ n * X64 ^ 2) (h2 : n * X64 ^ 2 < (R + 1) ^ 2) (hs : s * s ≤ n) (hs2 : n < (s + 1) * (s + 1)) : R = s * X64 + R % X64 := by
  have a : s * X64 ≤ R := by
    rcases Nat.lt_or_ge R (s * X64) with h | h
    · have h3 : (R + 1) ^ 2 ≤ (s * X64) ^ 2 := Nat.pow_le_pow_left (by omega) 2
      have h4 : (s * X64) ^ 2 = s * s * X64 ^ 2 := by rw [Nat.mul_pow, Nat.pow_two s]
      have h5 : s * s * X64 ^ 2 ≤ n * X64 ^ 2 := Nat.mul_le_mul_right _ hs
      omega
    · exact h
  have b : R < (s + 1) * X64 := by
    rcases Nat.lt_or_ge R ((s + 1) * X64) with h | h
    · exact h
    · have h3 : ((s + 1) * X64) ^ 2 ≤ R ^ 2 := Nat.pow_le_pow_left h 2
      have h4 : ((s + 1) * X64) ^ 2 = (s + 1) * (s + 1) * X64 ^ 2 := by rw [Nat.mul_pow, Nat.pow_two (s + 1)]
      have h5 : n * X64 ^ 2 < (s + 1) * (s + 1) * X64 ^ 2 := Nat.mul_lt_mul_of_pos_right hs2 (Nat.pow_pos X64_pos)
      omega
  rw [Nat.add_mul, Nat.one_mul] at b
  have c : R / X64 = s := by
    apply Nat.div_eq_of_lt_le
    · exact a
    · rw [Nat.add_mul, Nat.one_mul]; exact b
  have d := Nat.div_add_mod R X64
  rw [c, Nat.mul_comm] at d
  exact d.symm
theorem root_sq (n s r : Nat) (hs : s * s ≤ n) (h1 : (s * X64 + r) ^ 2 ≤ n * X64 ^ 2) (h2 : n * X64 ^ 2 < (s * X64 + r + 1) ^ 2) :
    2 * s * r * X64 + r * r ≤ (n - s * s) * X64 ^ 2 ∧ (n - s * s) * X64 ^ 2 < 2 * s * r * X64 + r * r + 2 * s * X64 + 2 * r + 1 := by
  have e1 : (s * X64 + r) ^ 2 = s * s * X64 ^ 2 + (2 * s * r * X64 + r * r) := by
    rw [Nat.pow_two, Nat.add_mul, Nat.mul_add, Nat.mul_add]
    have a : s * X64 * (s * X64) = s * s * X64 ^ 2 := by rw [Nat.pow_two, Nat.mul_mul_mul_comm]
    have b : s * X64 * r = s * r * X64 := by rw [Nat.mul_right_comm]
    have c : r * (s * X64) = s * r * X64 := by rw [← Nat.mul_assoc, Nat.mul_comm r s]
    have d : 2 * s * r * X64 = s * r * X64 + s * r * X64 := by rw [Nat.mul_assoc 2 s r, Nat.two_mul, Nat.add_mul]
    rw [a, b, c, d]
    omega
  have e2 : (s * X64 + r + 1) ^ 2 = (s * X64 + r) ^ 2 + (2 * s * X64 + 2 * r + 1) := by
    rw [Nat.pow_two, Nat.add_mul, Nat.mul_add, ← Nat.pow_two]
    have d : 2 * s * X64 = s * X64 + s * X64 := by rw [Nat.mul_assoc, Nat.two_mul]
    omega
  have e3 : n * X64 ^ 2 = s * s * X64 ^ 2 + (n - s * s) * X64 ^ 2 := by rw [← Nat.add_mul]; congr 1; omega
  rw [e2, e1, e3] at h2
  rw [e1, e3] at h1
  omega
/-- What the law computes. -/
theorem roots_law (d q r rr qr high low top mid m1 c1 r2 ov x1 c x2 e y1 f y2 g : Nat) (hrr : r * r = rr) (hqr : q * r = qr)
    (h1 : qr * 18446744073709551616 + rr ≤ d * 340282366920938463463374607431768211456) (h2 : d * 340282366920938463463374607431768211456 < qr * 18446744073709551616 + rr + q * 18446744073709551616 + 2 * r + 1)
    (a1 : rr / 18446744073709551616 = high) (a2 : rr % 18446744073709551616 = low) (a3 : qr / 18446744073709551616 = top) (a4 : qr % 18446744073709551616 = mid)
    (a5 : (mid + high + 0) % 18446744073709551616 = m1) (a6 : (mid + high + 0) / 18446744073709551616 = c1) (a7 : 2 * r % 18446744073709551616 = r2) (a8 : r / 9223372036854775808 = ov)
    (a9 : (low + r2 + 0) % 18446744073709551616 = x1) (b1 : (low + r2 + 0) / 18446744073709551616 = c) (b2 : (x1 + 1 + 0) % 18446744073709551616 = x2) (b3 : (x1 + 1 + 0) / 18446744073709551616 = e)
    (b4 : (m1 + q + c) % 18446744073709551616 = y1) (b5 : (m1 + q + c) / 18446744073709551616 = f) (b6 : (y1 + (ov + e) + 0) % 18446744073709551616 = y2) (b7 : (y1 + (ov + e) + 0) / 18446744073709551616 = g) :
    (top + c1 < d ∨ (top + c1 = d ∧ m1 = 0 ∧ low = 0)) ∧ (d < top + c1 + f + g ∨ (top + c1 + f + g = d ∧ (x2 ≠ 0 ∨ y2 ≠ 0))) := by
  clear hrr hqr
  omega
theorem add64c_run (x y c : Nat) (hc : c ≤ 1) (w : World) :
    (callFunc 31 #[.int .u64 x, .int .u64 y, .int .u64 c]).run Try.prog w =
      .ok (.value (.tuple #[.int .u64 (((x + y + c) % 18446744073709551616 : Nat) : Int), .int .u64 (((x + y + c) / 18446744073709551616 : Nat) : Int)])) w := by
  rw [run_callFunc_extern Try.func31 (by kernel_rfl) (by kernel_rfl) (by kernel_rfl) (e := add64Entry) (by kernel_rfl)]
  have h := run_add64 (P := Try.prog) x y c (by omega) (by omega) (by omega) (by omega) w
  rw [h]
  simp [Result.andThen]
end Go.Proofs.Ytphalfpmgbmcaaa
