/- The law of roots: its values. No statement is proved here. -/
import Derived.Test.YtphalfpmgbmcaaaT8
namespace Go.Proofs.Ytphalfpmgbmcaaa
open Go.RowKit
set_option linter.unusedVariables false

theorem sq_small {x n : Nat} (h : x * x ≤ n) (hn : n < 4294967296) : x ≤ 65535 := by
  rcases Nat.lt_or_ge 65535 x with h1 | h1
  · have := sq_mono (show 65536 ≤ x by omega)
    omega
  · exact h1
theorem sq_next {s n : Nat} (hs : s ≤ 65535) (hn : n < 4294967296) (h : ¬ (s < 65535 ∧ (s + 1) * (s + 1) ≤ n)) : n < (s + 1) * (s + 1) := by
  rcases Nat.lt_or_ge s 65535 with h1 | h1
  · rcases Nat.lt_or_ge n ((s + 1) * (s + 1)) with h2 | h2
    · exact h2
    · exact absurd ⟨h1, h2⟩ h
  · obtain rfl : s = 65535 := by omega
    omega
/-- What is known of the fraction. -/
structure RootFacts (n s r : Nat) : Prop where
  lt : r < 18446744073709551616
  le : 2 * s * r * 18446744073709551616 + r * r ≤ (n - s * s) * 340282366920938463463374607431768211456
  gt : (n - s * s) * 340282366920938463463374607431768211456 < 2 * s * r * 18446744073709551616 + r * r + 2 * s * 18446744073709551616 + 2 * r + 1
theorem root_facts (n s : Nat) (hn : n < 4294967296) (hs : s * s ≤ n) (hs2 : n < (s + 1) * (s + 1)) : RootFacts n s (rootN (n % 4294967296) 2 % X64) := by
  rw [Nat.mod_eq_of_lt hn]
  have h := rootN_spec n 2 (by omega) (by omega) hn
  have e := root_split n s (rootN n 2) h.1 h.2 hs hs2
  have h2 := root_sq n s (rootN n 2 % X64) hs (by rw [← e]; exact h.1) (by rw [← e]; exact h.2)
  have eX : X64 ^ 2 = 340282366920938463463374607431768211456 := by decide
  rw [eX] at h2
  exact ⟨Nat.mod_lt _ X64_pos, h2.1, h2.2⟩
/-- The law's values. -/
structure RV where
  q : Nat
  d : Nat
  high : Nat
  low : Nat
  top : Nat
  mid : Nat
  m1 : Nat
  c1 : Nat
  T : Nat
  r2 : Nat
  ov : Nat
  x1 : Nat
  c : Nat
  x2 : Nat
  e : Nat
  oe : Nat
  y1 : Nat
  f : Nat
  y2 : Nat
  g : Nat
  Z : Nat
structure RVok (n s r : Nat) (v : RV) : Prop where
  q : Hid (2 * (s : Int) = (v.q : Int))
  d : Hid (n - s * s = v.d)
  c30a : Hid (∀ w, Calls Try.prog 30 #[.int .u64 r, .int .u64 r] w fun e w' => e = .returned (.tuple #[.int .u64 v.high, .int .u64 v.low]) ∧ w' = w)
  c30b : Hid (∀ w, Calls Try.prog 30 #[.int .u64 v.q, .int .u64 r] w fun e w' => e = .returned (.tuple #[.int .u64 v.top, .int .u64 v.mid]) ∧ w' = w)
  a1 : Hid (∀ W, (callFunc 31 #[.int .u64 v.mid, .int .u64 v.high, .int .u64 0]).run Try.prog W = .ok (.value (.tuple #[.int .u64 v.m1, .int .u64 v.c1])) W)
  T : Hid ((v.top : Int) + (v.c1 : Int) = (v.T : Int))
  r2 : Hid (IntKind.u64.wrap (2 * (r : Int)) = (v.r2 : Int))
  ov : Hid ((r : Int) / 9223372036854775808 = (v.ov : Int))
  a2 : Hid (∀ W, (callFunc 31 #[.int .u64 v.low, .int .u64 v.r2, .int .u64 0]).run Try.prog W = .ok (.value (.tuple #[.int .u64 v.x1, .int .u64 v.c])) W)
  a3 : Hid (∀ W, (callFunc 31 #[.int .u64 v.x1, .int .u64 1, .int .u64 0]).run Try.prog W = .ok (.value (.tuple #[.int .u64 v.x2, .int .u64 v.e])) W)
  a4 : Hid (∀ W, (callFunc 31 #[.int .u64 v.m1, .int .u64 v.q, .int .u64 v.c]).run Try.prog W = .ok (.value (.tuple #[.int .u64 v.y1, .int .u64 v.f])) W)
  oe : Hid ((v.ov : Int) + (v.e : Int) = (v.oe : Int))
  a5 : Hid (∀ W, (callFunc 31 #[.int .u64 v.y1, .int .u64 v.oe, .int .u64 0]).run Try.prog W = .ok (.value (.tuple #[.int .u64 v.y2, .int .u64 v.g])) W)
  Z : Hid ((v.T : Int) + (v.f : Int) + (v.g : Int) = (v.Z : Int))
  small : v.top ≤ 131070 ∧ v.c1 ≤ 1 ∧ v.ov ≤ 1 ∧ v.e ≤ 1 ∧ v.f ≤ 1 ∧ v.g ≤ 1 ∧ v.T ≤ 131072
  lo : v.T < v.d ∨ (v.T = v.d ∧ v.m1 = 0 ∧ v.low = 0)
  hi : v.d < v.Z ∨ (v.Z = v.d ∧ (v.x2 ≠ 0 ∨ v.y2 ≠ 0))
theorem dv0 {x b y r : Nat} (h : x ≤ b * r) (hr : r < 18446744073709551616) (hy : x / 18446744073709551616 = y) : y ≤ b := by
  subst hy
  have h1 : b * r ≤ b * 18446744073709551616 := Nat.mul_le_mul_left b (by omega)
  have h2 : x ≤ b * 18446744073709551616 := Nat.le_trans h h1
  have h3 := Nat.div_le_div_right (c := 18446744073709551616) h2
  rw [Nat.mul_div_cancel _ (by omega)] at h3
  exact h3
theorem dv1 {x y z : Nat} (hx : x < 18446744073709551616) (hy : y < 18446744073709551616) (h : (x + y + 0) / 18446744073709551616 = z) : z ≤ 1 := by omega
theorem dv2 {x y c z : Nat} (hx : x < 18446744073709551616) (hy : y < 18446744073709551616) (hc : c ≤ 1) (h : (x + y + c) / 18446744073709551616 = z) : z ≤ 1 := by omega
theorem md {x y : Nat} (h : x % 18446744073709551616 = y) : y < 18446744073709551616 := by omega
theorem dvt {r y : Nat} (hr : r < 18446744073709551616) (h : r / 9223372036854775808 = y) : y ≤ 1 := by omega
theorem dvs {x y z : Nat} (hx : x ≤ 18446744073709551616 - 1) (hy : y ≤ 18446744073709551616 - 1) (h : x * y / 18446744073709551616 = z) : z < 18446744073709551616 := by
  subst h
  rw [Nat.div_lt_iff_lt_mul (by omega)]
  have := Nat.mul_le_mul hx hy
  omega
theorem sm1 {x y : Nat} (hx : x ≤ 131070) (hy : y ≤ 1) : x + y ≤ 131072 := by omega
theorem q64 {q : Nat} (hq : q ≤ 131070) : q < 18446744073709551616 := by omega
theorem oe64 {a b : Nat} (ha : a ≤ 1) (hb : b ≤ 1) : a + b < 18446744073709551616 := by omega
theorem one64 : 1 < 18446744073709551616 := by omega
theorem r2i {r x : Nat} (h : 2 * r % 18446744073709551616 = x) : IntKind.u64.wrap (2 * (r : Int)) = (x : Int) := by rw [IntKind.wrap_u64]; omega
theorem ovi {r x : Nat} (h : r / 9223372036854775808 = x) : (r : Int) / 9223372036854775808 = (x : Int) := by omega
theorem zi (a b f g : Nat) : ((a + b : Nat) : Int) + (f : Int) + (g : Int) = ((a + b + f + g : Nat) : Int) := by omega
theorem roots_small (q r rr qr high low top mid m1 c1 r2 ov x1 c x2 e y1 f y2 g : Nat) (hq : q ≤ 131070) (hr : r < 18446744073709551616) (hqr : qr ≤ 131070 * r) (hrr : rr ≤ 18446744073709551615 * 18446744073709551615)
    (hhigh : rr / 18446744073709551616 = high) (hlow : rr % 18446744073709551616 = low) (htop : qr / 18446744073709551616 = top) (hmid : qr % 18446744073709551616 = mid) (hm1 : (mid + high + 0) % 18446744073709551616 = m1) (hc1 : (mid + high + 0) / 18446744073709551616 = c1) (hr2 : 2 * r % 18446744073709551616 = r2) (hov : r / 9223372036854775808 = ov) (hx1 : (low + r2 + 0) % 18446744073709551616 = x1) (hc : (low + r2 + 0) / 18446744073709551616 = c) (hx2 : (x1 + 1 + 0) % 18446744073709551616 = x2) (he : (x1 + 1 + 0) / 18446744073709551616 = e) (hy1 : (m1 + q + c) % 18446744073709551616 = y1) (hf : (m1 + q + c) / 18446744073709551616 = f) (hy2 : (y1 + (ov + e) + 0) % 18446744073709551616 = y2) (hg : (y1 + (ov + e) + 0) / 18446744073709551616 = g) :
    top ≤ 131070 ∧ c1 ≤ 1 ∧ ov ≤ 1 ∧ e ≤ 1 ∧ f ≤ 1 ∧ g ≤ 1 ∧ c ≤ 1 ∧ top + c1 ≤ 131072 := by
  have a1 : top ≤ 131070 := dv0 hqr hr htop
  have a2 := md hmid
  have a3 : high < 18446744073709551616 := by
    rw [← hhigh, Nat.div_lt_iff_lt_mul (by omega)]
    exact Nat.lt_of_le_of_lt hrr (by decide)
  have a4 := md hlow
  have a5 := md hr2
  have a6 := md hm1
  have a7 := md hx1
  have a8 := md hy1
  have b1 := dv1 a2 a3 hc1
  have b2 := dvt hr hov
  have b3 := dv1 a7 one64 he
  have b4 := dv1 a4 a5 hc
  have b5 := dv2 a6 (q64 hq) b4 hf
  have b6 := dv1 a8 (oe64 b2 b3) hg
  exact ⟨a1, b1, b2, b3, b5, b6, b4, sm1 a1 b1⟩
theorem roots_vals (n s r : Nat) (hs : s ≤ 65535) (h : RootFacts n s r) : ∃ v : RV, Hid (RVok n s r v) := by
  have hr := h.lt
  have h1 := h.le
  have h2 := h.gt
  have hq1 : 2 * s * r ≤ 131070 * r := Nat.mul_le_mul_right r (by omega)
  have hrr1 : r * r ≤ 18446744073709551615 * 18446744073709551615 := Nat.mul_le_mul (by omega) (by omega)
  have C1 := fun w => Try.bits_Mul64 r r hr hr w
  have C2 := fun w => Try.bits_Mul64 (2 * s) r (by omega) hr w
  have hq2 : 2 * (s : Int) = ((2 * s : Nat) : Int) := by omega
  have hqs : 2 * s ≤ 131070 := by omega
  have hd : n - s * s = n - s * s := rfl
  generalize hdd : n - s * s = d at h1 h2
  generalize hqq : 2 * s = q at *
  generalize hrr : r * r = rr at *
  generalize hqr : q * r = qr at *
  obtain ⟨high, hhigh⟩ : ∃ x : Nat, rr / 18446744073709551616 = x := ⟨_, rfl⟩
  obtain ⟨low, hlow⟩ : ∃ x : Nat, rr % 18446744073709551616 = x := ⟨_, rfl⟩
  obtain ⟨top, htop⟩ : ∃ x : Nat, qr / 18446744073709551616 = x := ⟨_, rfl⟩
  obtain ⟨mid, hmid⟩ : ∃ x : Nat, qr % 18446744073709551616 = x := ⟨_, rfl⟩
  obtain ⟨m1, hm1⟩ : ∃ x : Nat, (mid + high + 0) % 18446744073709551616 = x := ⟨_, rfl⟩
  obtain ⟨c1, hc1⟩ : ∃ x : Nat, (mid + high + 0) / 18446744073709551616 = x := ⟨_, rfl⟩
  obtain ⟨r2, hr2⟩ : ∃ x : Nat, 2 * r % 18446744073709551616 = x := ⟨_, rfl⟩
  obtain ⟨ov, hov⟩ : ∃ x : Nat, r / 9223372036854775808 = x := ⟨_, rfl⟩
  obtain ⟨x1, hx1⟩ : ∃ x : Nat, (low + r2 + 0) % 18446744073709551616 = x := ⟨_, rfl⟩
  obtain ⟨c, hc⟩ : ∃ x : Nat, (low + r2 + 0) / 18446744073709551616 = x := ⟨_, rfl⟩
  obtain ⟨x2, hx2⟩ : ∃ x : Nat, (x1 + 1 + 0) % 18446744073709551616 = x := ⟨_, rfl⟩
  obtain ⟨e, he⟩ : ∃ x : Nat, (x1 + 1 + 0) / 18446744073709551616 = x := ⟨_, rfl⟩
  obtain ⟨y1, hy1⟩ : ∃ x : Nat, (m1 + q + c) % 18446744073709551616 = x := ⟨_, rfl⟩
  obtain ⟨f, hf⟩ : ∃ x : Nat, (m1 + q + c) / 18446744073709551616 = x := ⟨_, rfl⟩
  obtain ⟨y2, hy2⟩ : ∃ x : Nat, (y1 + (ov + e) + 0) % 18446744073709551616 = x := ⟨_, rfl⟩
  obtain ⟨g, hg⟩ : ∃ x : Nat, (y1 + (ov + e) + 0) / 18446744073709551616 = x := ⟨_, rfl⟩
  have R := roots_law d q r rr qr high low top mid m1 c1 r2 ov x1 c x2 e y1 f y2 g hrr hqr h1 h2 hhigh hlow htop hmid hm1 hc1 hr2 hov hx1 hc hx2 he hy1 hf hy2 hg
  have SM := roots_small q r rr qr high low top mid m1 c1 r2 ov x1 c x2 e y1 f y2 g hqs hr hq1 hrr1 hhigh hlow htop hmid hm1 hc1 hr2 hov hx1 hc hx2 he hy1 hf hy2 hg
  have A1 : ∀ W, (callFunc 31 #[.int .u64 mid, .int .u64 high, .int .u64 0]).run Try.prog W = .ok (.value (.tuple #[.int .u64 m1, .int .u64 c1])) W := fun W => by rw [← hm1, ← hc1]; exact add64_run mid high W
  have A2 : ∀ W, (callFunc 31 #[.int .u64 low, .int .u64 r2, .int .u64 0]).run Try.prog W = .ok (.value (.tuple #[.int .u64 x1, .int .u64 c])) W := fun W => by rw [← hx1, ← hc]; exact add64_run low r2 W
  have A3 : ∀ W, (callFunc 31 #[.int .u64 x1, .int .u64 1, .int .u64 0]).run Try.prog W = .ok (.value (.tuple #[.int .u64 x2, .int .u64 e])) W := fun W => by rw [← hx2, ← he]; exact add64_run x1 1 W
  have A4 : ∀ W, (callFunc 31 #[.int .u64 m1, .int .u64 q, .int .u64 c]).run Try.prog W = .ok (.value (.tuple #[.int .u64 y1, .int .u64 f])) W := fun W => by rw [← hy1, ← hf]; exact add64c_run m1 q c SM.2.2.2.2.2.2.1 W
  have A5 : ∀ W, (callFunc 31 #[.int .u64 y1, .int .u64 ((ov + e : Nat) : Int), .int .u64 0]).run Try.prog W = .ok (.value (.tuple #[.int .u64 y2, .int .u64 g])) W := fun W => by rw [← hy2, ← hg]; exact add64_run y1 (ov + e) W
  rw [hhigh, hlow] at C1
  rw [htop, hmid] at C2
  have hr2' := r2i hr2
  have hov' := ovi hov
  exact ⟨⟨q, d, high, low, top, mid, m1, c1, top + c1, r2, ov, x1, c, x2, e, ov + e, y1, f, y2, g, top + c1 + f + g⟩, ⟨hq2, hdd, C1, C2, A1, (Int.natCast_add _ _).symm, hr2', hov', A2, A3, A4, (Int.natCast_add _ _).symm, A5, zi top c1 f g, ⟨SM.1, SM.2.1, SM.2.2.1, SM.2.2.2.1, SM.2.2.2.2.1, SM.2.2.2.2.2.1, SM.2.2.2.2.2.2.2⟩, R.1, R.2⟩⟩
end Go.Proofs.Ytphalfpmgbmcaaa
