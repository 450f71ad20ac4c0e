/- Roots modulo a prime that is 5 modulo 8. No statement is proved here. -/
import Derived.Test.YtgdimnbdnepbgaaNT
namespace Go.Proofs.Ytgdimnbdnepbgaa
set_option linter.unusedVariables false

theorem mm (a b n : Nat) : a % n * (b % n) % n = a * b % n := (Nat.mul_mod a b n).symm
theorem dvd_mod {p a : Nat} (h : p ∣ a) : a % p = 0 := Nat.mod_eq_zero_of_dvd h
theorem not_dvd {p a : Nat} (h : a % p ≠ 0) : ¬ p ∣ a := fun hd => h (dvd_mod hd)
/-- p - x has the same square. -/
theorem neg_sq (p x : Nat) (h : x ≤ p) : (p - x) * (p - x) % p = x * x % p := by
  obtain ⟨y, rfl⟩ : ∃ y, p = x + y := ⟨p - x, by omega⟩
  rw [Nat.add_sub_cancel_left]
  have e : y * y + (x + y) * x = x * x + (x + y) * y := by
    rw [Nat.add_mul, Nat.add_mul, Nat.mul_comm y x]; omega
  rw [← Nat.add_mul_mod_self_left (y * y) (x + y) x, e, Nat.add_mul_mod_self_left]
theorem eq_or_neg {p x a : Nat} (hp : Pr p) (hx : x < p) (ha : a < p) (h : x * x % p = a * a % p) : x = a ∨ x = (p - a) % p := by
  have h2 := hp.1
  by_cases ha0 : a = 0
  · subst ha0
    rw [Nat.mul_zero, Nat.zero_mod] at h
    rcases hp.euclid (Nat.dvd_of_mod_eq_zero h) with hd | hd <;>
    · have := dvd_mod hd
      rw [Nat.mod_eq_of_lt hx] at this
      exact .inl this
  have key : ∀ u v : Nat, u ≤ v → v < p → 0 < u + v → u * u % p = v * v % p → u = v ∨ u + v = p := by
    intro u v huv hv h0 he
    have h1 : p ∣ v * v - u * u := Nat.dvd_of_mod_eq_zero (Nat.sub_mod_eq_zero_of_mod_eq he.symm)
    obtain ⟨d, rfl⟩ : ∃ d, v = u + d := ⟨v - u, by omega⟩
    have e : (u + d) * (u + d) - u * u = d * (u + (u + d)) := by
      rw [Nat.add_mul, Nat.mul_add, Nat.mul_add, Nat.mul_add, Nat.mul_add, Nat.mul_comm u d]; omega
    rw [e] at h1
    rcases hp.euclid h1 with hd | hd
    · rcases Nat.eq_zero_or_pos d with h00 | h00
      · left; omega
      · have := Nat.le_of_dvd h00 hd; omega
    · right
      obtain ⟨c, hc⟩ := hd
      have hc1 : c ≠ 0 := fun h => by subst h; omega
      have hc2 : c < 2 := Nat.lt_of_not_le fun h => by
        have : p * 2 ≤ p * c := Nat.mul_le_mul_left p h
        omega
      obtain rfl : c = 1 := by omega
      omega
  rw [Nat.mod_eq_of_lt (show p - a < p by omega)]
  rcases Nat.le_total x a with hxa | hxa
  · rcases key x a hxa ha (by omega) h with h | h
    · exact .inl h
    · exact .inr (by omega)
  · rcases key a x hxa hx (by omega) h.symm with h | h
    · exact .inl h.symm
    · exact .inr (by omega)
theorem one_or_neg {p x : Nat} (hp : Pr p) (hx : x < p) (h : x * x % p = 1) : x = 1 ∨ x = p - 1 := by
  have h2 := hp.1
  have := eq_or_neg hp hx (show 1 < p by omega) (by rw [h, Nat.mul_one, Nat.mod_eq_of_lt (by omega)])
  rwa [Nat.mod_eq_of_lt (show p - 1 < p by omega)] at this
theorem cancel2 {p a b c : Nat} (hp : Pr p) (ha : ¬ p ∣ a) (h : a * b % p = a * c % p) : b % p = c % p := by
  rcases Nat.le_total c b with h1 | h1
  · exact cancel hp ha h1 h
  · exact (cancel hp ha h1 h.symm).symm

/-- The one of x and p - x that is even. -/
def evn (p x : Nat) : Nat := if x % 2 = 1 then (p - x) % p else x
/-- The root, as the program makes it. -/
def rt (p k a : Nat) : Nat × Bool :=
  if (a % p) ^ (k + 1) % p * ((a % p) ^ (k + 1) % p) % p = a % p then (evn p ((a % p) ^ (k + 1) % p), true)
  else if (a % p) ^ (k + 1) % p * ((a % p) ^ (k + 1) % p) % p = (p - a % p) % p then (evn p ((a % p) ^ (k + 1) % p * (2 ^ (2 * k + 1) % p) % p), true)
  else (0, false)
theorem evn_lt {p x : Nat} (h : x < p) : evn p x < p := by
  unfold evn
  split
  · exact Nat.mod_lt _ (by omega)
  · exact h
theorem evn_sq {p x : Nat} (h : x < p) : evn p x * evn p x % p = x * x % p := by
  unfold evn
  split
  · rw [mm, neg_sq p x (by omega)]
  · rfl
theorem evn_even {p x : Nat} (hp : p % 2 = 1) (h : x < p) : evn p x % 2 = 0 := by
  unfold evn
  split
  · rw [Nat.mod_eq_of_lt (show p - x < p by omega)]
    omega
  · omega

theorem t_sq {p k : Nat} (hp : Pr p) (hk : p = 8 * k + 5) (a : Nat) : a ^ (2 * k + 1) % p * (a ^ (2 * k + 1) % p) % p = a ^ (4 * k + 2) % p := by
  rw [mm, ← Nat.pow_add, show 2 * k + 1 + (2 * k + 1) = 4 * k + 2 from by omega]
theorem chi_sq {p k : Nat} (hp : Pr p) (hk : p = 8 * k + 5) (a : Nat) (ha : ¬ p ∣ a) : a ^ (4 * k + 2) % p * (a ^ (4 * k + 2) % p) % p = 1 := by
  rw [mm, ← Nat.pow_add, show 4 * k + 2 + (4 * k + 2) = p - 1 from by omega]
  exact fermat1 hp a ha
theorem chi_two {p k : Nat} (hp : Pr p) (hk : p = 8 * k + 5) (a : Nat) (ha : ¬ p ∣ a) : a ^ (4 * k + 2) % p = 1 ∨ a ^ (4 * k + 2) % p = p - 1 :=
  one_or_neg hp (Nat.mod_lt _ (by omega)) (chi_sq hp hk a ha)
/-- r squared is a times t. -/
theorem r_sq {p k : Nat} (hp : Pr p) (hk : p = 8 * k + 5) (a : Nat) : (a % p) ^ (k + 1) % p * ((a % p) ^ (k + 1) % p) % p = a * a ^ (2 * k + 1) % p := by
  rw [mm, ← Nat.pow_add, ← Nat.pow_mod, ← Nat.pow_succ', show k + 1 + (k + 1) = 2 * k + 1 + 1 from by omega]
theorem r_is {p k : Nat} (hp : Pr p) (hk : p = 8 * k + 5) (a : Nat) (ha : ¬ p ∣ a) : (a % p) ^ (k + 1) % p * ((a % p) ^ (k + 1) % p) % p = a % p ↔ a ^ (2 * k + 1) % p = 1 := by
  rw [r_sq hp hk]
  constructor
  · intro h
    have := cancel2 hp ha (b := a ^ (2 * k + 1)) (c := 1) (by rw [Nat.mul_one]; exact h)
    rw [this, Nat.mod_eq_of_lt (by omega)]
  · intro h
    rw [← Nat.mul_mod_mod, h, Nat.mul_one]
theorem neg_mod {p k : Nat} (hp : Pr p) (hk : p = 8 * k + 5) (a : Nat) : (p - a % p) % p = a * (p - 1) % p := by
  have h0 : a % p < p := Nat.mod_lt _ (by omega)
  rw [← Nat.mod_mul_mod]
  generalize a % p = x at *
  by_cases hx : x = 0
  · subst hx; simp
  · rw [show x * (p - 1) = p - x + p * (x - 1) from by
      obtain ⟨y, rfl⟩ : ∃ y, x = y + 1 := ⟨x - 1, by omega⟩
      obtain ⟨q, hq⟩ : ∃ q, p = q + 1 := ⟨p - 1, by omega⟩
      rw [hq, Nat.add_sub_cancel, Nat.add_sub_cancel, Nat.add_mul, Nat.add_mul, Nat.mul_comm y q]
      omega, Nat.add_mul_mod_self_left]
theorem r_neg {p k : Nat} (hp : Pr p) (hk : p = 8 * k + 5) (a : Nat) (ha : ¬ p ∣ a) : (a % p) ^ (k + 1) % p * ((a % p) ^ (k + 1) % p) % p = (p - a % p) % p ↔ a ^ (2 * k + 1) % p = p - 1 := by
  rw [r_sq hp hk, neg_mod hp hk]
  constructor
  · intro h
    have := cancel2 hp ha h
    rw [this, Nat.mod_eq_of_lt (by omega)]
  · intro h
    rw [← Nat.mul_mod_mod, h]
theorem rt_ok {p k : Nat} (hp : Pr p) (hk : p = 8 * k + 5) (a : Nat) (ha : ¬ p ∣ a) : (rt p k a).2 = decide (a ^ (4 * k + 2) % p = 1) := by
  unfold rt
  have hlt : a ^ (2 * k + 1) % p < p := Nat.mod_lt _ (by omega)
  have hs := t_sq hp hk a
  have h1 := r_is hp hk a ha
  have h2 := r_neg hp hk a ha
  by_cases c1 : a ^ (2 * k + 1) % p = 1
  · rw [if_pos (h1.2 c1)]
    rw [c1, Nat.mul_one, Nat.mod_eq_of_lt (show 1 < p by omega)] at hs
    simp [← hs]
  · by_cases c2 : a ^ (2 * k + 1) % p = p - 1
    · rw [if_neg (fun h => c1 (h1.1 h)), if_pos (h2.2 c2)]
      rw [c2, neg_sq p 1 (by omega), Nat.mul_one, Nat.mod_eq_of_lt (show 1 < p by omega)] at hs
      simp [← hs]
    · rw [if_neg (fun h => c1 (h1.1 h)), if_neg (fun h => c2 (h2.1 h))]
      have : ¬ a ^ (4 * k + 2) % p = 1 := fun h => by
        rw [← hs] at h
        rcases one_or_neg hp hlt h with h | h
        · exact c1 h
        · exact c2 h
      simp [this]
theorem rt_none {p k : Nat} (hp : Pr p) (hk : p = 8 * k + 5) (a : Nat) (h : (rt p k a).2 = false) : (rt p k a).1 = 0 := by
  unfold rt at *
  split at h
  · cases h
  · rename_i h1
    rw [if_neg h1]
    split at h
    · cases h
    · rename_i h2
      rw [if_neg h2]
theorem rt_lt {p k : Nat} (hp : Pr p) (hk : p = 8 * k + 5) (a : Nat) : (rt p k a).1 < p := by
  unfold rt
  split
  · exact evn_lt (Nat.mod_lt _ (by omega))
  · split
    · exact evn_lt (Nat.mod_lt _ (by omega))
    · show 0 < p
      omega
theorem rt_sq {p k : Nat} (hp : Pr p) (hk : p = 8 * k + 5) (htwo : 2 ^ (4 * k + 2) % p = p - 1) (a : Nat) (h : (rt p k a).2 = true) : (rt p k a).1 * (rt p k a).1 % p = a % p ∧ (rt p k a).1 % 2 = 0 := by
  have hl : ∀ x : Nat, x % p < p := fun x => Nat.mod_lt _ (by omega)
  unfold rt at *
  split
  · rename_i h1
    exact ⟨(evn_sq (hl _)).trans h1, evn_even (by omega) (hl _)⟩
  · split
    · rename_i h1 h2
      refine ⟨?_, evn_even (by omega) (hl _)⟩
      show evn p _ * evn p _ % p = _
      rw [evn_sq (hl _), mm, Nat.mul_mul_mul_comm, Nat.mul_mod, h2]
      rw [t_sq hp hk 2, htwo]
      have h3 := neg_mod hp hk (p - a % p)
      rw [← Nat.mod_mul_mod] at h3
      rw [← h3]
      by_cases h0 : a % p = 0
      · rw [h0, Nat.sub_zero, Nat.mod_self, Nat.sub_zero, Nat.mod_self]
      · have := hl a
        rw [Nat.mod_eq_of_lt (show p - a % p < p by omega), show p - (p - a % p) = a % p from by omega, Nat.mod_mod]
    · rename_i h1 h2
      rw [if_neg h1, if_neg h2] at h
      cases h
/-- The root of a square. -/
theorem rt_square {p k : Nat} (hp : Pr p) (hk : p = 8 * k + 5) (htwo : 2 ^ (4 * k + 2) % p = p - 1) (a : Nat) (ha : ¬ p ∣ a) : rt p k (a * a % p) = (evn p (a % p), true) := by
  have hl : ∀ x : Nat, x % p < p := fun x => Nat.mod_lt _ (by omega)
  have hna : ¬ p ∣ a * a % p := fun h => by
    have h1 := dvd_mod h
    rw [Nat.mod_mod] at h1
    rcases hp.euclid (Nat.dvd_of_mod_eq_zero h1) with h | h <;> exact ha h
  have hok : (rt p k (a * a % p)).2 = true := by
    rw [rt_ok hp hk _ hna, ← Nat.pow_mod, Nat.mul_pow, ← mm]
    simp [chi_sq hp hk a ha]
  obtain ⟨h1, h2⟩ := rt_sq hp hk htwo _ hok
  have hlt := rt_lt hp hk (a * a % p)
  refine Prod.ext ?_ hok
  show (rt p k (a * a % p)).1 = evn p (a % p)
  rw [Nat.mod_mod] at h1
  have h1 := h1.trans (mm a a p).symm
  have he := evn_even (p := p) (by omega) (hl a)
  have h0 : a % p ≠ 0 := fun h => ha (Nat.dvd_of_mod_eq_zero h)
  have hp2 := hl a
  rcases eq_or_neg hp hlt (hl a) h1 with h | h
  · unfold evn
    rw [h] at h2
    rw [if_neg (by omega), h]
  · rw [Nat.mod_eq_of_lt (show p - a % p < p by omega)] at h
    unfold evn
    rw [h] at h2
    rw [if_pos (by omega), Nat.mod_eq_of_lt (show p - a % p < p by omega), h]
/-- Twice a square has none. -/
theorem rt_double {p k : Nat} (hp : Pr p) (hk : p = 8 * k + 5) (htwo : 2 ^ (4 * k + 2) % p = p - 1) (a : Nat) (ha : ¬ p ∣ a) : rt p k (2 * (a * a % p) % p) = (0, false) := by
  have hna : ¬ p ∣ 2 * (a * a % p) % p := fun h => by
    have h1 := dvd_mod h
    rw [Nat.mod_mod, Nat.mul_mod_mod] at h1
    rcases hp.euclid (Nat.dvd_of_mod_eq_zero h1) with h | h
    · have := Nat.le_of_dvd (by omega) h
      omega
    · rcases hp.euclid h with h | h <;> exact ha h
  have hno : (rt p k (2 * (a * a % p) % p)).2 = false := by
    rw [rt_ok hp hk _ hna, ← Nat.pow_mod, Nat.pow_mod, Nat.mul_mod_mod, ← Nat.pow_mod, Nat.mul_pow, Nat.mul_pow, ← mm, ← mm (a ^ (4 * k + 2)), chi_sq hp hk a ha, htwo, Nat.mul_one, Nat.mod_eq_of_lt (show p - 1 < p by omega)]
    simp
    omega
  exact Prod.ext (rt_none hp hk _ hno) hno
theorem rt_mul {p k : Nat} (hp : Pr p) (hk : p = 8 * k + 5) (a b : Nat) (ha : ¬ p ∣ a) (hb : ¬ p ∣ b) : (rt p k (a * b % p)).2 = ((rt p k a).2 == (rt p k b).2) := by
  have hna : ¬ p ∣ a * b % p := fun h => by
    have h1 := dvd_mod h
    rw [Nat.mod_mod] at h1
    rcases hp.euclid (Nat.dvd_of_mod_eq_zero h1) with h | h
    · exact ha h
    · exact hb h
  rw [rt_ok hp hk _ hna, rt_ok hp hk _ ha, rt_ok hp hk _ hb, ← Nat.pow_mod, Nat.mul_pow, ← mm]
  have hn : p - 1 ≠ 1 := by omega
  rcases chi_two hp hk a ha with h1 | h1 <;> rcases chi_two hp hk b hb with h2 | h2 <;> rw [h1, h2]
  · rw [Nat.mul_one, Nat.mod_eq_of_lt (show 1 < p by omega)]; simp
  · rw [Nat.one_mul, Nat.mod_eq_of_lt (show p - 1 < p by omega)]; simp [hn]
  · rw [Nat.mul_one, Nat.mod_eq_of_lt (show p - 1 < p by omega)]; simp [hn]
  · rw [neg_sq p 1 (by omega), Nat.mul_one, Nat.mod_eq_of_lt (show 1 < p by omega)]; simp
end Go.Proofs.Ytgdimnbdnepbgaa
