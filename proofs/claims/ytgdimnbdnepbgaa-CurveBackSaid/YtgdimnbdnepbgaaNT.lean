/- Numbers: primes, Fermat's little theorem, Pocklington's test, and that 2^255 - 19 is a prime. No statement is proved here. -/
namespace Go.Proofs.Ytgdimnbdnepbgaa
set_option linter.unusedVariables false

/-- A prime. -/
def Pr (n : Nat) : Prop := 2 ≤ n ∧ ∀ m, m ∣ n → m = 1 ∨ m = n

theorem factor : ∀ n : Nat, 2 ≤ n → ∃ r, Pr r ∧ r ∣ n := by
  intro n
  induction n using Nat.strongRecOn with
  | ind n ih =>
    intro h
    by_cases hp : ∀ m, m ∣ n → m = 1 ∨ m = n
    · exact ⟨n, ⟨h, hp⟩, Nat.dvd_refl n⟩
    · obtain ⟨m, hm⟩ := Classical.not_forall.1 hp
      have h1 : m ∣ n := Classical.byContradiction fun hc => hm fun hd => absurd hd hc
      have h2 : ¬ (m = 1 ∨ m = n) := fun hc => hm fun _ => hc
      have h3 : m ≤ n := Nat.le_of_dvd (by omega) h1
      have h4 : m ≠ 0 := fun h0 => by subst h0; have := Nat.eq_zero_of_zero_dvd h1; omega
      obtain ⟨r, hr, hd⟩ := ih m (by omega) (by omega)
      exact ⟨r, hr, Nat.dvd_trans hd h1⟩
theorem small_factor (n : Nat) (h : 2 ≤ n) (hn : ¬ Pr n) : ∃ r, Pr r ∧ r ∣ n ∧ r * r ≤ n := by
  have hp : ¬ ∀ m, m ∣ n → m = 1 ∨ m = n := fun hc => hn ⟨h, hc⟩
  obtain ⟨m, hm⟩ := Classical.not_forall.1 hp
  have h1 : m ∣ n := Classical.byContradiction fun hc => hm fun hd => absurd hd hc
  have h2 : ¬ (m = 1 ∨ m = n) := fun hc => hm fun _ => hc
  obtain ⟨k, hk⟩ := h1
  have hm0 : m ≠ 0 := fun h0 => by subst h0; omega
  have hk0 : k ≠ 0 := fun h0 => by subst h0; omega
  have hk1 : k ≠ 1 := fun h0 => by subst h0; omega
  rcases Nat.le_total m k with hmk | hmk
  · obtain ⟨r, hr, hd⟩ := factor m (by omega)
    have hle : r ≤ m := Nat.le_of_dvd (by omega) hd
    exact ⟨r, hr, Nat.dvd_trans hd ⟨k, hk⟩, by rw [hk]; exact Nat.mul_le_mul hle (Nat.le_trans hle hmk)⟩
  · obtain ⟨r, hr, hd⟩ := factor k (by omega)
    have hle : r ≤ k := Nat.le_of_dvd (by omega) hd
    exact ⟨r, hr, Nat.dvd_trans hd ⟨m, by rw [hk, Nat.mul_comm]⟩, by rw [hk]; exact Nat.mul_le_mul (Nat.le_trans hle hmk) hle⟩
theorem Pr.coprime {p a : Nat} (hp : Pr p) (h : ¬ p ∣ a) : Nat.Coprime p a := by
  rcases hp.2 (Nat.gcd p a) (Nat.gcd_dvd_left p a) with h1 | h1
  · exact h1
  · exact absurd (h1 ▸ Nat.gcd_dvd_right p a) h
theorem Pr.euclid {p a b : Nat} (hp : Pr p) (h : p ∣ a * b) : p ∣ a ∨ p ∣ b := by
  by_cases ha : p ∣ a
  · exact .inl ha
  · exact .inr (Nat.Coprime.dvd_of_dvd_mul_left (hp.coprime ha) h)

/-- Binomials. -/
def ch : Nat → Nat → Nat
  | _, 0 => 1
  | 0, _ + 1 => 0
  | n + 1, k + 1 => ch n k + ch n (k + 1)
theorem ch_zero (n : Nat) : ch n 0 = 1 := by cases n <;> rfl
theorem ch_big : ∀ n k : Nat, n < k → ch n k = 0
  | 0, k + 1, _ => rfl
  | n + 1, k + 1, h => by
    show ch n k + ch n (k + 1) = 0
    rw [ch_big n k (by omega), ch_big n (k + 1) (by omega)]
theorem ch_self : ∀ n : Nat, ch n n = 1
  | 0 => rfl
  | n + 1 => by
    show ch n n + ch n (n + 1) = 1
    rw [ch_self n, ch_big n (n + 1) (by omega)]
theorem ch_mul : ∀ n k : Nat, (k + 1) * ch (n + 1) (k + 1) = (n + 1) * ch n k
  | 0, 0 => rfl
  | 0, k + 1 => by
    show (k + 2) * (ch 0 (k + 1) + ch 0 (k + 2)) = 1 * ch 0 (k + 1)
    simp [ch]
  | n + 1, 0 => by
    have h := ch_mul n 0
    have h1 : ch (n + 2) 1 = ch (n + 1) 0 + ch (n + 1) 1 := rfl
    rw [ch_zero] at h h1 ⊢
    have h' : ch (n + 1) 1 = n + 1 := by simpa using h
    rw [h1, h']
    omega
  | n + 1, k + 1 => by
    have a := ch_mul n k
    have b := ch_mul n (k + 1)
    have h1 : ch (n + 2) (k + 2) = ch (n + 1) (k + 1) + ch (n + 1) (k + 2) := rfl
    have h2 : ch (n + 1) (k + 1) = ch n k + ch n (k + 1) := rfl
    have c : (k + 1 + 1) * ch (n + 1) (k + 1) = (k + 1) * ch (n + 1) (k + 1) + ch (n + 1) (k + 1) := Nat.succ_mul _ _
    have d : (n + 1 + 1) * ch (n + 1) (k + 1) = (n + 1) * ch (n + 1) (k + 1) + ch (n + 1) (k + 1) := Nat.succ_mul _ _
    have e : (n + 1) * ch (n + 1) (k + 1) = (n + 1) * ch n k + (n + 1) * ch n (k + 1) := by rw [h2, Nat.mul_add]
    rw [h1, Nat.mul_add, c, d, a, b, e]
    omega
/-- The first m terms of (a + 1)^n. -/
def sm (a n : Nat) : Nat → Nat
  | 0 => 0
  | m + 1 => sm a n m + ch n m * a ^ m
theorem sm_next (a n : Nat) : ∀ m, sm a (n + 1) (m + 1) = a * sm a n m + sm a n (m + 1)
  | 0 => by simp [sm, ch_zero]
  | m + 1 => by
    have h1 : ch (n + 1) (m + 1) = ch n m + ch n (m + 1) := rfl
    have e1 : sm a (n + 1) (m + 2) = sm a (n + 1) (m + 1) + ch (n + 1) (m + 1) * a ^ (m + 1) := rfl
    have e2 : sm a n (m + 1) = sm a n m + ch n m * a ^ m := rfl
    have e3 : sm a n (m + 2) = sm a n (m + 1) + ch n (m + 1) * a ^ (m + 1) := rfl
    have e4 : a * (ch n m * a ^ m) = ch n m * a ^ (m + 1) := by rw [Nat.pow_succ, Nat.mul_left_comm, Nat.mul_comm a]
    rw [e1, sm_next a n m, h1, Nat.add_mul, e3, e2, Nat.mul_add, e4]
    omega
theorem sm_all (a : Nat) : ∀ n, sm a n (n + 1) = (a + 1) ^ n
  | 0 => by simp [sm, ch]
  | n + 1 => by
    have e : sm a n (n + 2) = sm a n (n + 1) + ch n (n + 1) * a ^ (n + 1) := rfl
    rw [sm_next, e, ch_big n (n + 1) (by omega), sm_all a n, Nat.pow_succ (n := a + 1), Nat.mul_add, Nat.mul_comm a]
    omega
theorem ch_dvd {p k : Nat} (hp : Pr p) (h0 : 0 < k) (h1 : k < p) : p ∣ ch p k := by
  obtain ⟨n, rfl⟩ : ∃ n, p = n + 1 := ⟨p - 1, by have := hp.1; omega⟩
  obtain ⟨j, rfl⟩ : ∃ j, k = j + 1 := ⟨k - 1, by omega⟩
  have h := ch_mul n j
  rcases hp.euclid (a := j + 1) (b := ch (n + 1) (j + 1)) ⟨ch n j, h⟩ with hd | hd
  · have := Nat.le_of_dvd (by omega) hd
    omega
  · exact hd
theorem sm_mod {p : Nat} (hp : Pr p) (a : Nat) : ∀ m, m < p → sm a p (m + 1) % p = 1
  | 0, _ => by
    have h2 := hp.1
    simp only [sm, ch_zero, Nat.pow_zero, Nat.mul_one, Nat.zero_add]
    exact Nat.mod_eq_of_lt h2
  | m + 1, h => by
    have e : sm a p (m + 2) = sm a p (m + 1) + ch p (m + 1) * a ^ (m + 1) := rfl
    obtain ⟨c, hc⟩ := ch_dvd hp (show 0 < m + 1 by omega) h
    rw [e, hc, Nat.mul_assoc, Nat.add_mul_mod_self_left, sm_mod hp a m (by omega)]
theorem fermat {p : Nat} (hp : Pr p) : ∀ a, a ^ p % p = a % p
  | 0 => by rw [Nat.zero_pow (by have := hp.1; omega)]
  | a + 1 => by
    have h2 := hp.1
    have e : sm a p (p + 1) = sm a p p + ch p p * a ^ p := rfl
    have h := sm_mod hp a (p - 1) (by omega)
    rw [show p - 1 + 1 = p from by omega] at h
    rw [← sm_all, e, ch_self, Nat.one_mul, Nat.add_mod, h, fermat hp a, Nat.add_comm, Nat.mod_add_mod]
theorem cancel {p a b c : Nat} (hp : Pr p) (ha : ¬ p ∣ a) (hbc : c ≤ b) (h : a * b % p = a * c % p) : b % p = c % p := by
  have h1 : p ∣ a * b - a * c := (Nat.dvd_iff_mod_eq_zero ..).2 (Nat.sub_mod_eq_zero_of_mod_eq h)
  rw [← Nat.mul_sub] at h1
  rcases hp.euclid h1 with hd | hd
  · exact absurd hd ha
  · obtain ⟨k, hk⟩ := hd
    rw [show b = c + p * k from by omega, Nat.add_mul_mod_self_left]
theorem fermat1 {p : Nat} (hp : Pr p) (a : Nat) (ha : ¬ p ∣ a) : a ^ (p - 1) % p = 1 := by
  have h2 := hp.1
  have h := fermat hp a
  obtain ⟨n, rfl⟩ : ∃ n, p = n + 1 := ⟨p - 1, by omega⟩
  have ha0 : 0 < a := Nat.pos_of_ne_zero fun h0 => ha (h0 ▸ Nat.dvd_zero _)
  rw [Nat.pow_succ, Nat.mul_comm] at h
  have h' : a * a ^ n % (n + 1) = a * 1 % (n + 1) := by rw [h, Nat.mul_one]
  have := cancel hp ha (Nat.one_le_pow n a ha0) h'
  rw [Nat.mod_eq_of_lt (show 1 < n + 1 by omega)] at this
  exact this
theorem pow_gcd (b r : Nat) (hr : 1 < r) (x y : Nat) : b ^ x % r = 1 → b ^ y % r = 1 → b ^ (Nat.gcd x y) % r = 1 := by
  induction x, y using Nat.gcd.induction with
  | H0 y => intro _ h; rw [Nat.gcd_zero_left]; exact h
  | H1 x y hx ih =>
    intro h1 h2
    rw [Nat.gcd_rec]
    refine ih ?_ h1
    have e : b ^ y = (b ^ x) ^ (y / x) * b ^ (y % x) := by rw [← Nat.pow_mul, ← Nat.pow_add, Nat.div_add_mod]
    rw [e, Nat.mul_mod, Nat.pow_mod, h1, Nat.one_pow, Nat.mod_eq_of_lt hr, Nat.one_mul, Nat.mod_mod] at h2
    exact h2
theorem order {q r b : Nat} (hq : Pr q) (hr : Pr r) (h1 : b ^ q % r = 1) (h2 : b % r ≠ 1) : q ∣ r - 1 := by
  refine Classical.byContradiction fun hn => ?_
  have hr2 := hr.1
  have hb : ¬ r ∣ b := fun hd => by
    obtain ⟨c, rfl⟩ := hd
    obtain ⟨k, rfl⟩ : ∃ k, q = k + 1 := ⟨q - 1, by have := hq.1; omega⟩
    rw [Nat.pow_succ, ← Nat.mul_assoc, Nat.mul_right_comm, Nat.mul_mod_left] at h1
    omega
  have hg := pow_gcd b r (by omega) q (r - 1) h1 (fermat1 hr b hb)
  rw [show Nat.gcd q (r - 1) = 1 from hq.coprime hn, Nat.pow_one] at hg
  exact h2 hg
theorem pock_step {n q r : Nat} (hq : Pr q) (hr : Pr r) (hrn : r ∣ n) (hn : 1 < n) (b : Nat) (h1 : b ^ q % n = 1) (hg : Nat.gcd (b + n - 1) n = 1) : q ∣ r - 1 := by
  have hr2 := hr.1
  have e : ∀ x, x % n % r = x % r := fun x => Nat.mod_mod_of_dvd x hrn
  refine order hq hr (b := b) ?_ ?_
  · rw [← e, h1, Nat.mod_eq_of_lt (by omega)]
  · intro hb
    have hd : r ∣ b + n - 1 := by
      obtain ⟨c, rfl⟩ := hrn
      have e2 := Nat.div_add_mod b r
      rw [hb] at e2
      have : b + r * c - 1 = r * (b / r + c) := by rw [Nat.mul_add]; omega
      exact ⟨_, this⟩
    have := Nat.dvd_gcd hd hrn
    rw [hg] at this
    have := Nat.le_of_dvd (by omega) this
    omega
/-- Pocklington's test by one prime. -/
theorem pock1 (n q b : Nat) (hn : 1 < n) (hq : Pr q) (h1 : b ^ q % n = 1) (hg : Nat.gcd (b + n - 1) n = 1) (hF : n < q * q) : Pr n := by
  refine Classical.byContradiction fun hc => ?_
  obtain ⟨r, hr, hd, hle⟩ := small_factor n (by omega) hc
  have hr2 := hr.1
  have d := Nat.le_of_dvd (by omega) (pock_step hq hr hd hn b h1 hg)
  have : q * q ≤ r * r := Nat.mul_le_mul (by omega) (by omega)
  omega
/-- Pocklington's test by two primes. -/
theorem pock2 (n q b q' b' : Nat) (hn : 1 < n) (hq : Pr q) (hq' : Pr q') (hne : q < q') (h1 : b ^ q % n = 1) (hg : Nat.gcd (b + n - 1) n = 1) (h1' : b' ^ q' % n = 1) (hg' : Nat.gcd (b' + n - 1) n = 1) (hF : n < q * q' * (q * q')) : Pr n := by
  refine Classical.byContradiction fun hc => ?_
  obtain ⟨r, hr, hd, hle⟩ := small_factor n (by omega) hc
  have hr2 := hr.1
  have d := pock_step hq hr hd hn b h1 hg
  have d' := pock_step hq' hr hd hn b' h1' hg'
  have hco : Nat.Coprime q q' := hq.coprime fun h => by
    rcases hq'.2 q h with h | h
    · have := hq.1; omega
    · omega
  have d2 := Nat.le_of_dvd (by omega) (hco.mul_dvd_of_dvd_of_dvd d d')
  have : q * q' * (q * q') ≤ r * r := Nat.mul_le_mul (by omega) (by omega)
  omega

/-- f of x, where x is to be known first. -/
def stric {α : Type} (x : Nat) (f : Nat → α) : α := Nat.rec (motive := fun _ => α) (f 0) (fun n _ => f (n + 1)) x
theorem stric_eq {α : Type} (x : Nat) (f : Nat → α) : stric x f = f x := by cases x <;> rfl
/-- a^e mod n, for an e below 2^f. -/
def pm (n a : Nat) : Nat → Nat → Nat
  | 0, _ => 1 % n
  | f + 1, e => stric (pm n a f (e / 2)) fun h => stric (h * h % n) fun s => if e % 2 = 0 then s else s * a % n
theorem pm_eq (n a : Nat) : ∀ f e, e < 2 ^ f → pm n a f e = a ^ e % n
  | 0, e, h => by
    obtain rfl : e = 0 := by simpa using h
    rfl
  | f + 1, e, h => by
    have ih := pm_eq n a f (e / 2) (by rw [Nat.pow_succ] at h; omega)
    have e0 : pm n a (f + 1) e = if e % 2 = 0 then pm n a f (e / 2) * pm n a f (e / 2) % n else pm n a f (e / 2) * pm n a f (e / 2) % n * a % n := by
      rw [pm, stric_eq, stric_eq]
    have e1 : a ^ (e / 2) % n * (a ^ (e / 2) % n) % n = a ^ (2 * (e / 2)) % n := by rw [← Nat.mul_mod, ← Nat.pow_add, Nat.two_mul]
    rw [e0, ih, e1]
    split
    · rw [show 2 * (e / 2) = e from by omega]
    · rw [show e = 2 * (e / 2) + 1 from by omega, Nat.pow_succ, Nat.mod_mul_mod, show (2 * (e / 2) + 1) / 2 = e / 2 from by omega]
/-- No divisor from k on, of the next f numbers. -/
def nod (n : Nat) : Nat → Nat → Bool
  | 0, _ => true
  | f + 1, k => stric k fun k => (n % k != 0) && nod n f (k + 1)
theorem nod_spec (n : Nat) : ∀ f k, nod n f k = true → ∀ m, k ≤ m → m < k + f → n % m ≠ 0
  | 0, k, _, m, h1, h2 => by omega
  | f + 1, k, h, m, h1, h2 => by
    rw [nod, stric_eq] at h
    simp only [Bool.and_eq_true, bne_iff_ne] at h
    by_cases hm : m = k
    · rw [hm]; exact h.1
    · exact nod_spec n f (k + 1) h.2 m (by omega) (by omega)
theorem trial (n f : Nat) (hn : 1 < n) (h : nod n f 2 = true) (hf : n < (f + 2) * (f + 2)) : Pr n := by
  refine Classical.byContradiction fun hc => ?_
  obtain ⟨r, hr, hd, hle⟩ := small_factor n (by omega) hc
  have hr2 := hr.1
  by_cases hlt : r < 2 + f
  · exact nod_spec n f 2 h r hr2 hlt (Nat.mod_eq_zero_of_dvd hd)
  · have : (f + 2) * (f + 2) ≤ r * r := Nat.mul_le_mul (by omega) (by omega)
    omega
theorem pock1' (n q f : Nat) (k : Nat) (hn : 1 < n) (hq : Pr q) (he : n - 1 < 2 ^ f) (hk : k < 2 ^ f) (hkq : k * q = n - 1) (h1 : pm n 2 f (n - 1) = 1) (hg : Nat.gcd (pm n 2 f k + n - 1) n = 1) (hF : n < q * q) : Pr n := by
  rw [pm_eq n 2 f _ hk] at hg
  rw [pm_eq n 2 f _ he] at h1
  refine pock1 n q (2 ^ k % n) hn hq ?_ hg hF
  rw [← Nat.pow_mod, ← Nat.pow_mul, hkq]
  exact h1
theorem pock2' (n q q' f : Nat) (k k' : Nat) (hn : 1 < n) (hq : Pr q) (hq' : Pr q') (hne : q < q') (he : n - 1 < 2 ^ f) (hk : k < 2 ^ f) (hk' : k' < 2 ^ f) (hkq : k * q = n - 1) (hkq' : k' * q' = n - 1) (h1 : pm n 2 f (n - 1) = 1)
    (hg : Nat.gcd (pm n 2 f k + n - 1) n = 1) (hg' : Nat.gcd (pm n 2 f k' + n - 1) n = 1) (hF : n < q * q' * (q * q')) : Pr n := by
  rw [pm_eq n 2 f _ hk] at hg
  rw [pm_eq n 2 f _ hk'] at hg'
  rw [pm_eq n 2 f _ he] at h1
  refine pock2 n q (2 ^ k % n) q' (2 ^ k' % n) hn hq hq' hne ?_ hg ?_ hg' hF
  · rw [← Nat.pow_mod, ← Nat.pow_mul, hkq]
    exact h1
  · rw [← Nat.pow_mod, ← Nat.pow_mul, hkq']
    exact h1
theorem pr_991 : Pr 991 := trial 991 31 (by decide) (by decide +kernel) (by decide)
theorem pr_103 : Pr 103 := trial 103 10 (by decide) (by decide +kernel) (by decide)
theorem pr_8574133 : Pr 8574133 := pock2' 8574133 103 991 24 83244 8652 (by decide) pr_103 pr_991 (by decide) (by decide) (by decide) (by decide) (by decide +kernel) (by decide +kernel) (by decide +kernel) (by decide +kernel) (by decide +kernel) (by decide)
theorem pr_127 : Pr 127 := trial 127 11 (by decide) (by decide +kernel) (by decide)
theorem pr_1919519569386763 : Pr 1919519569386763 := pock2' 1919519569386763 127 8574133 51 15114327318006 223873314 (by decide) pr_127 pr_8574133 (by decide) (by decide) (by decide) (by decide) (by decide +kernel) (by decide +kernel) (by decide +kernel) (by decide +kernel) (by decide +kernel) (by decide)
theorem pr_569003 : Pr 569003 := trial 569003 754 (by decide) (by decide +kernel) (by decide)
theorem pr_2773320623 : Pr 2773320623 := pock1' 2773320623 569003 32 4874 (by decide) pr_569003 (by decide) (by decide) (by decide +kernel) (by decide +kernel) (by decide +kernel) (by decide)
theorem pr_72106336199 : Pr 72106336199 := pock1' 72106336199 2773320623 37 26 (by decide) pr_2773320623 (by decide) (by decide) (by decide +kernel) (by decide +kernel) (by decide +kernel) (by decide)
theorem pr_75445702479781427272750846543864801 : Pr 75445702479781427272750846543864801 := pock2' 75445702479781427272750846543864801 72106336199 1919519569386763 116 1046311689884858398375200 39304471641247389600 (by decide) pr_72106336199 pr_1919519569386763 (by decide) (by decide) (by decide) (by decide) (by decide +kernel) (by decide +kernel) (by decide +kernel) (by decide +kernel) (by decide +kernel) (by decide)
theorem pr_430751 : Pr 430751 := trial 430751 656 (by decide) (by decide +kernel) (by decide)
theorem pr_4153 : Pr 4153 := trial 4153 64 (by decide) (by decide +kernel) (by decide)
theorem pr_31757755568855353 : Pr 31757755568855353 := pock2' 31757755568855353 4153 430751 55 7646943310584 73726481352 (by decide) pr_4153 pr_430751 (by decide) (by decide) (by decide) (by decide) (by decide +kernel) (by decide +kernel) (by decide +kernel) (by decide +kernel) (by decide +kernel) (by decide)
theorem pr_74058212732561358302231226437062788676166966415465897661863160754340907 : Pr 74058212732561358302231226437062788676166966415465897661863160754340907 := pock2' 74058212732561358302231226437062788676166966415465897661863160754340907 31757755568855353 75445702479781427272750846543864801 236 2331972502653487852620185443007392165117953542933313402 981609426360740691344999861639072106 (by decide) pr_31757755568855353 pr_75445702479781427272750846543864801 (by decide) (by decide) (by decide) (by decide) (by decide +kernel) (by decide +kernel) (by decide +kernel) (by decide +kernel) (by decide +kernel) (by decide)
theorem pr_57896044618658097711785492504343953926634992332820282019728792003956564819949 : Pr 57896044618658097711785492504343953926634992332820282019728792003956564819949 := pock1' 57896044618658097711785492504343953926634992332820282019728792003956564819949 74058212732561358302231226437062788676166966415465897661863160754340907 255 781764 (by decide) pr_74058212732561358302231226437062788676166966415465897661863160754340907 (by decide) (by decide) (by decide +kernel) (by decide +kernel) (by decide +kernel) (by decide)
end Go.Proofs.Ytgdimnbdnepbgaa
