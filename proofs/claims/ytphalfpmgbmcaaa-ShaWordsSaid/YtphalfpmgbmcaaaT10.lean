/- The first 80 primes and their roots, as the kernel evaluates them. No statement is proved here. -/
import Derived.Test.YtphalfpmgbmcaaaJ
namespace Go.Proofs.Ytphalfpmgbmcaaa
set_option linter.unusedVariables false

/-- No number from 2 on whose square is not above p divides p. -/
def isP (p : Nat) : Bool := (List.range 21).all fun d => !(2 ≤ d && d * d ≤ p) || p % d != 0
/-- How many such numbers there are from 3 to p. -/
def cnt : Nat → Nat
  | 0 => 0
  | p + 1 => cnt p + (if 3 ≤ p + 1 && isP (p + 1) then 1 else 0)
theorem cnt_le_succ (p : Nat) : cnt p ≤ cnt (p + 1) := by simp [cnt]
theorem cnt_409 : cnt 409 = 79 := by decide +kernel
theorem primes_ok : (List.range 410).all (fun p => !(2 ≤ p && isP p) || (K80.getD (cnt p) 0 == rootN p 3 % X64 && (!(cnt p < 8) || start512.words.getD (cnt p) 0 == rootN p 2 % X64))) = true := by decide +kernel
theorem prime_root (p : Nat) (h2 : 2 ≤ p) (hp : p ≤ 409) (hi : isP p = true) : K80.getD (cnt p) 0 = rootN p 3 % X64 ∧ (cnt p < 8 → start512.words.getD (cnt p) 0 = rootN p 2 % X64) := by
  have h := List.all_eq_true.1 primes_ok p (List.mem_range.2 (by omega))
  simp only [h2, hi, decide_true, Bool.and_self, Bool.not_true, Bool.false_or, Bool.and_eq_true, beq_iff_eq, Bool.or_eq_true, Bool.not_eq_true', decide_eq_false_iff_not] at h
  refine ⟨h.1, fun hc => ?_⟩
  rcases h.2 with h3 | h3
  · exact absurd hc h3
  · exact h3
theorem cnt_mono {p q : Nat} (h : p ≤ q) : cnt p ≤ cnt q := by
  induction q with
  | zero => simp_all
  | succ q ih =>
    rcases Nat.lt_or_ge p (q + 1) with h' | h'
    · exact Nat.le_trans (ih (by omega)) (cnt_le_succ q)
    · obtain rfl : p = q + 1 := by omega
      exact Nat.le_refl _
/-- While fewer than 79 were met, the number is below 409. -/
theorem cnt_bound {p : Nat} (h : cnt p < 79) : p < 409 := by
  rcases Nat.lt_or_ge p 409 with h' | h'
  · exact h'
  · have := cnt_mono h'
    rw [cnt_409] at this
    omega
end Go.Proofs.Ytphalfpmgbmcaaa
