/- Roots, plainly: bit by bit, and the greatest number whose power is not above another. No statement is proved here. -/
import Derived.Test.YtphalfpmgbmcaaaT3
namespace Go.Proofs.Ytphalfpmgbmcaaa
open Go.RowKit
set_option linter.unusedVariables false

/-- From bit k down: each is taken if the power stays not above b. -/
def srch (b d : Nat) : Nat → Nat → Nat
  | 0, r => r
  | k + 1, r => srch b d k (if (r + 2 ^ k) ^ d ≤ b then r + 2 ^ k else r)
/-- The greatest number whose power is not above x by 2^(64 d). -/
def rootN (x d : Nat) : Nat := srch (x * X64 ^ d) d 80 0
theorem srch_spec (b d : Nat) : ∀ k r, r ^ d ≤ b → b < (r + 2 ^ k) ^ d → (srch b d k r) ^ d ≤ b ∧ b < (srch b d k r + 1) ^ d
  | 0, r, h1, h2 => ⟨h1, by simpa [srch] using h2⟩
  | k + 1, r, h1, h2 => by
    unfold srch
    by_cases h : (r + 2 ^ k) ^ d ≤ b
    · rw [if_pos h]
      refine srch_spec b d k _ h ?_
      rw [Nat.add_assoc, ← Nat.two_mul, Nat.mul_comm, ← Nat.pow_succ]
      exact h2
    · rw [if_neg h]
      exact srch_spec b d k r h1 (by omega)
theorem rootN_spec (x d : Nat) (hd : 2 ≤ d) (hd3 : d ≤ 3) (hx : x < 4294967296) : (rootN x d) ^ d ≤ x * X64 ^ d ∧ x * X64 ^ d < (rootN x d + 1) ^ d := by
  refine srch_spec _ d 80 0 (by rw [Nat.zero_pow (by omega)]; exact Nat.zero_le _) ?_
  rw [Nat.zero_add]
  have h1 : (2 ^ 80) ^ d = (2 ^ 16) ^ d * X64 ^ d := by rw [← Nat.mul_pow]; rfl
  rw [h1]
  refine Nat.mul_lt_mul_of_pos_right ?_ (Nat.pow_pos X64_pos)
  have h2 : (2 ^ 16) ^ 2 ≤ (2 ^ 16) ^ d := Nat.pow_le_pow_right (by omega) hd
  have h3 : ((2 : Nat) ^ 16) ^ 2 = 4294967296 := by decide
  omega
/-- There is but one. -/
theorem root_unique {b d r s : Nat} (h1 : r ^ d ≤ b) (h2 : b < (r + 1) ^ d) (h3 : s ^ d ≤ b) (h4 : b < (s + 1) ^ d) : r = s := by
  rcases Nat.lt_trichotomy r s with h | h | h
  · have := Nat.pow_le_pow_left (show r + 1 ≤ s by omega) d
    omega
  · exact h
  · have := Nat.pow_le_pow_left (show s + 1 ≤ r by omega) d
    omega
theorem rootN_eq (x d r : Nat) (hd : 2 ≤ d) (hd3 : d ≤ 3) (hx : x < 4294967296) (h1 : r ^ d ≤ x * X64 ^ d) (h2 : x * X64 ^ d < (r + 1) ^ d) : rootN x d = r :=
  have h := rootN_spec x d hd hd3 hx
  root_unique h.1 h.2 h1 h2

theorem old_mod (R q : Nat) (hR : R % 2 ^ (q + 1) = 0) (hq : q < 80) : ((wl R).getD (q / 64) 0) % 2 ^ (q % 64 + 1) = 0 := by
  rw [wl_get R (q / 64) (by omega)]
  have hd : 2 ^ (q + 1) ∣ R := Nat.dvd_of_mod_eq_zero hR
  obtain ⟨m, rfl⟩ := hd
  have hX : X64 ^ (q / 64) = 2 ^ (64 * (q / 64)) := by rw [Nat.pow_mul]; rfl
  have e : 2 ^ (q + 1) = 2 ^ (64 * (q / 64)) * 2 ^ (q % 64 + 1) := by rw [← Nat.pow_add]; congr 1; omega
  rw [hX, e, Nat.mul_assoc, Nat.mul_div_cancel_left _ (Nat.two_pow_pos _)]
  have hd2 : 2 ^ (q % 64 + 1) ∣ X64 := by
    show _ ∣ 2 ^ 64
    exact Nat.pow_dvd_pow 2 (by omega)
  rw [Nat.mod_mod_of_dvd _ hd2]
  exact Nat.mul_mod_right _ _
theorem wl_bit (R q : Nat) (hR : R % 2 ^ (q + 1) = 0) (hq : q < 80) : (wl R).set (q / 64) ((wl R).getD (q / 64) 0 ||| 2 ^ (q % 64)) = wl (R + 2 ^ q) := by
  have hm := old_mod R q hR hq
  have hk : q / 64 < 4 := by omega
  have hj : (wl R).getD (q / 64) 0 ||| 2 ^ (q % 64) = (wl R).getD (q / 64) 0 + 2 ^ (q % 64) := nat_join (q % 64 + 1) _ _ hm (by rw [Nat.pow_succ]; have := Nat.two_pow_pos (q % 64); omega)
  have hl : (wl R).getD (q / 64) 0 < X64 := by rw [wl_get R _ hk]; exact Nat.mod_lt _ X64_pos
  have hlt : (wl R).getD (q / 64) 0 ||| 2 ^ (q % 64) < X64 := Nat.or_lt_two_pow (n := 64) hl (Nat.pow_lt_pow_right (by omega) (by omega))
  have hv := val_set (wl R) (q / 64) ((wl R).getD (q / 64) 0 ||| 2 ^ (q % 64)) (by rw [wl_len]; exact hk)
  rw [← wl_val ((wl R).set (q / 64) ((wl R).getD (q / 64) 0 ||| 2 ^ (q % 64))) (by rw [List.length_set, wl_len]) (set_lt (wl_lt R) _ _ hlt)]
  refine wl_eq ?_
  have hX : X64 ^ (q / 64) = 2 ^ (64 * (q / 64)) := by rw [Nat.pow_mul]; rfl
  have e : 2 ^ q = 2 ^ (q % 64) * X64 ^ (q / 64) := by rw [hX, ← Nat.pow_add]; congr 1; omega
  have hv2 : val ((wl R).set (q / 64) ((wl R).getD (q / 64) 0 ||| 2 ^ (q % 64))) = R % X64 ^ 4 + 2 ^ q := by
    rw [val_wl, hj, Nat.add_mul, ← e] at hv
    rw [hj]
    omega
  rw [hv2, Nat.mod_add_mod]
end Go.Proofs.Ytphalfpmgbmcaaa
