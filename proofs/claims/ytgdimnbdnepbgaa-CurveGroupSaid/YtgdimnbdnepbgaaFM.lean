/- The field's mul, in numbers. No statement is proved here. -/
import Derived.Test.YtgdimnbdnepbgaaFL
namespace Go.Proofs.Ytgdimnbdnepbgaa
open Go.RowKit
set_option linter.unusedVariables false
set_option maxRecDepth 40000

theorem fold19 (b : Nat) (h : b < 4503599627370496) : IntKind.u64.wrap (19 * (b : Int)) = ((19 * b : Nat) : Int) := by
  rw [IntKind.wrap_u64]; omega
theorem word_plus (t y : Nat) (hy : y < 4611686018427387904) : IntKind.u64.wrap (bits .and .u64 ((t % 18446744073709551616 : Nat) : Int) 2251799813685247 + (y : Int)) = ((t % 2251799813685248 + y : Nat) : Int) := by
  rw [and_mask _ (mod64 _), IntKind.wrap_u64]
  have : t % 18446744073709551616 % 2251799813685248 = t % 2251799813685248 := Nat.mod_mod_of_dvd t ⟨8192, by decide⟩
  rw [this]
  omega
theorem prod_lt {a b : Nat} (A B : Nat) (ha : a < A) (hb : b < B) : a * b ≤ A * B := Nat.mul_le_mul (Nat.le_of_lt ha) (Nat.le_of_lt hb)
/-- The five sums of products. -/
def t0 (a0 a1 a2 a3 a4 b0 b1 b2 b3 b4 : Nat) : Nat := a0 * b0 + a1 * (19 * b4) + a2 * (19 * b3) + a3 * (19 * b2) + a4 * (19 * b1)
def t1 (a0 a1 a2 a3 a4 b0 b1 b2 b3 b4 : Nat) : Nat := a0 * b1 + a1 * b0 + a2 * (19 * b4) + a3 * (19 * b3) + a4 * (19 * b2)
def t2 (a0 a1 a2 a3 a4 b0 b1 b2 b3 b4 : Nat) : Nat := a0 * b2 + a1 * b1 + a2 * b0 + a3 * (19 * b4) + a4 * (19 * b3)
def t3 (a0 a1 a2 a3 a4 b0 b1 b2 b3 b4 : Nat) : Nat := a0 * b3 + a1 * b2 + a2 * b1 + a3 * b0 + a4 * (19 * b4)
def t4 (a0 a1 a2 a3 a4 b0 b1 b2 b3 b4 : Nat) : Nat := a0 * b4 + a1 * b3 + a2 * b2 + a3 * b1 + a4 * b0
theorem sum5_lt (a0 a1 a2 a3 a4 b0 b1 b2 b3 b4 : Nat) (ha0 : a0 < 4503599627370496) (ha1 : a1 < 4503599627370496) (ha2 : a2 < 4503599627370496) (ha3 : a3 < 4503599627370496) (ha4 : a4 < 4503599627370496)
    (hb0 : b0 < 85568392920039424) (hb1 : b1 < 85568392920039424) (hb2 : b2 < 85568392920039424) (hb3 : b3 < 85568392920039424) (hb4 : b4 < 85568392920039424) :
    a0 * b0 + a1 * b1 + a2 * b2 + a3 * b3 + a4 * b4 < 1926828912346908690274988872171521 := by
  have p0 := prod_lt _ _ ha0 hb0
  have p1 := prod_lt _ _ ha1 hb1
  have p2 := prod_lt _ _ ha2 hb2
  have p3 := prod_lt _ _ ha3 hb3
  have p4 := prod_lt _ _ ha4 hb4
  omega
theorem sum5_lt' (a0 a1 a2 a3 a4 b0 b1 b2 b3 b4 : Nat) (ha0 : a0 < 4503599627370496) (ha1 : a1 < 4503599627370496) (ha2 : a2 < 4503599627370496) (ha3 : a3 < 4503599627370496) (ha4 : a4 < 4503599627370496)
    (hb0 : b0 < 4503599627370496) (hb1 : b1 < 4503599627370496) (hb2 : b2 < 4503599627370496) (hb3 : b3 < 4503599627370496) (hb4 : b4 < 4503599627370496) :
    a0 * b0 + a1 * b1 + a2 * b2 + a3 * b3 + a4 * b4 ≤ 101412048018258352119736256430080 := by
  have p0 := prod_lt _ _ ha0 hb0
  have p1 := prod_lt _ _ ha1 hb1
  have p2 := prod_lt _ _ ha2 hb2
  have p3 := prod_lt _ _ ha3 hb3
  have p4 := prod_lt _ _ ha4 hb4
  omega
/-- The words before the wrap. -/
def mulW : List Nat → List Nat → List Nat
  | [a0, a1, a2, a3, a4], [b0, b1, b2, b3, b4] =>
    [t0 a0 a1 a2 a3 a4 b0 b1 b2 b3 b4 % 2251799813685248 + 19 * (t4 a0 a1 a2 a3 a4 b0 b1 b2 b3 b4 / 2251799813685248),
      t1 a0 a1 a2 a3 a4 b0 b1 b2 b3 b4 % 2251799813685248 + t0 a0 a1 a2 a3 a4 b0 b1 b2 b3 b4 / 2251799813685248,
      t2 a0 a1 a2 a3 a4 b0 b1 b2 b3 b4 % 2251799813685248 + t1 a0 a1 a2 a3 a4 b0 b1 b2 b3 b4 / 2251799813685248,
      t3 a0 a1 a2 a3 a4 b0 b1 b2 b3 b4 % 2251799813685248 + t2 a0 a1 a2 a3 a4 b0 b1 b2 b3 b4 / 2251799813685248,
      t4 a0 a1 a2 a3 a4 b0 b1 b2 b3 b4 % 2251799813685248 + t3 a0 a1 a2 a3 a4 b0 b1 b2 b3 b4 / 2251799813685248]
  | _, _ => []
def mulL (a b : List Nat) : List Nat := wrapL (mulW a b)

theorem bnd5 {n : Nat} {o : List Nat} (h : Bnd n o) : ∃ a b c d e, o = [a, b, c, d, e] ∧ a < n ∧ b < n ∧ c < n ∧ d < n ∧ e < n := by
  obtain ⟨hl, hb⟩ := h
  match o, hl with
  | [a, b, c, d, e], _ => exact ⟨a, b, c, d, e, rfl, hb 0 (by omega), hb 1 (by omega), hb 2 (by omega), hb 3 (by omega), hb 4 (by omega)⟩
theorem bnd5' {n a b c d e : Nat} (h : a < n ∧ b < n ∧ c < n ∧ d < n ∧ e < n) : Bnd n [a, b, c, d, e] := by
  refine ⟨rfl, fun i hi => ?_⟩
  match i, hi with
  | 0, _ => exact h.1
  | 1, _ => exact h.2.1
  | 2, _ => exact h.2.2.1
  | 3, _ => exact h.2.2.2.1
  | 4, _ => exact h.2.2.2.2
theorem mulW_bnd (a b : List Nat) (ha : Bnd 4503599627370496 a) (hb : Bnd 4503599627370496 b) : Bnd 9223372036854775808 (mulW a b) := by
  obtain ⟨a0, a1, a2, a3, a4, rfl, ha0, ha1, ha2, ha3, ha4⟩ := bnd5 ha
  obtain ⟨b0, b1, b2, b3, b4, rfl, hb0, hb1, hb2, hb3, hb4⟩ := bnd5 hb
  have l0 := sum5_lt a0 a1 a2 a3 a4 b0 (19 * b4) (19 * b3) (19 * b2) (19 * b1) ha0 ha1 ha2 ha3 ha4 (by omega) (by omega) (by omega) (by omega) (by omega)
  have l1 := sum5_lt a0 a1 a2 a3 a4 b1 b0 (19 * b4) (19 * b3) (19 * b2) ha0 ha1 ha2 ha3 ha4 (by omega) (by omega) (by omega) (by omega) (by omega)
  have l2 := sum5_lt a0 a1 a2 a3 a4 b2 b1 b0 (19 * b4) (19 * b3) ha0 ha1 ha2 ha3 ha4 (by omega) (by omega) (by omega) (by omega) (by omega)
  have l3 := sum5_lt a0 a1 a2 a3 a4 b3 b2 b1 b0 (19 * b4) ha0 ha1 ha2 ha3 ha4 (by omega) (by omega) (by omega) (by omega) (by omega)
  have l4 := sum5_lt' a0 a1 a2 a3 a4 b4 b3 b2 b1 b0 ha0 ha1 ha2 ha3 ha4 hb4 hb3 hb2 hb1 hb0
  refine bnd5' ?_
  show t0 a0 a1 a2 a3 a4 b0 b1 b2 b3 b4 % _ + 19 * (t4 a0 a1 a2 a3 a4 b0 b1 b2 b3 b4 / _) < _ ∧ t1 a0 a1 a2 a3 a4 b0 b1 b2 b3 b4 % _ + t0 a0 a1 a2 a3 a4 b0 b1 b2 b3 b4 / _ < _ ∧ _
  change t0 a0 a1 a2 a3 a4 b0 b1 b2 b3 b4 < _ at l0
  change t1 a0 a1 a2 a3 a4 b0 b1 b2 b3 b4 < _ at l1
  change t2 a0 a1 a2 a3 a4 b0 b1 b2 b3 b4 < _ at l2
  change t3 a0 a1 a2 a3 a4 b0 b1 b2 b3 b4 < _ at l3
  change t4 a0 a1 a2 a3 a4 b0 b1 b2 b3 b4 ≤ _ at l4
  generalize t0 a0 a1 a2 a3 a4 b0 b1 b2 b3 b4 = s0 at *
  generalize t1 a0 a1 a2 a3 a4 b0 b1 b2 b3 b4 = s1 at *
  generalize t2 a0 a1 a2 a3 a4 b0 b1 b2 b3 b4 = s2 at *
  generalize t3 a0 a1 a2 a3 a4 b0 b1 b2 b3 b4 = s3 at *
  generalize t4 a0 a1 a2 a3 a4 b0 b1 b2 b3 b4 = s4 at *
  omega
theorem prod_poly (a0 a1 a2 a3 a4 b0 b1 b2 b3 b4 B : Nat) :
    (a0 + a1 * B + a2 * (B * B) + a3 * (B * B * B) + a4 * (B * B * B * B)) * (b0 + b1 * B + b2 * (B * B) + b3 * (B * B * B) + b4 * (B * B * B * B)) +
        19 * (a1 * b4 + a2 * b3 + a3 * b2 + a4 * b1 + (a2 * b4 + a3 * b3 + a4 * b2) * B + (a3 * b4 + a4 * b3) * (B * B) + a4 * b4 * (B * B * B)) =
      t0 a0 a1 a2 a3 a4 b0 b1 b2 b3 b4 + t1 a0 a1 a2 a3 a4 b0 b1 b2 b3 b4 * B + t2 a0 a1 a2 a3 a4 b0 b1 b2 b3 b4 * (B * B) + t3 a0 a1 a2 a3 a4 b0 b1 b2 b3 b4 * (B * B * B) + t4 a0 a1 a2 a3 a4 b0 b1 b2 b3 b4 * (B * B * B * B) +
        (B * B * B * B * B) * (a1 * b4 + a2 * b3 + a3 * b2 + a4 * b1 + (a2 * b4 + a3 * b3 + a4 * b2) * B + (a3 * b4 + a4 * b3) * (B * B) + a4 * b4 * (B * B * B)) := by
  unfold t0 t1 t2 t3 t4
  grind
theorem mulW_val (a b : List Nat) (ha : a.length = 5) (hb : b.length = 5) : val5 (mulW a b) % 57896044618658097711785492504343953926634992332820282019728792003956564819949 = val5 a * val5 b % 57896044618658097711785492504343953926634992332820282019728792003956564819949 := by
  match a, b, ha, hb with
  | [a0, a1, a2, a3, a4], [b0, b1, b2, b3, b4], _, _ =>
    have h := prod_poly a0 a1 a2 a3 a4 b0 b1 b2 b3 b4 2251799813685248
    simp only [val5, mulW]
    simp only [show (2251799813685248 * 2251799813685248 : Nat) = 5070602400912917605986812821504 from rfl, show (5070602400912917605986812821504 * 2251799813685248 : Nat) = 11417981541647679048466287755595961091061972992 from rfl,
      show (11417981541647679048466287755595961091061972992 * 2251799813685248 : Nat) = 25711008708143844408671393477458601640355247900524685364822016 from rfl,
      show (25711008708143844408671393477458601640355247900524685364822016 * 2251799813685248 : Nat) = 57896044618658097711785492504343953926634992332820282019728792003956564819968 from rfl] at h
    generalize t0 a0 a1 a2 a3 a4 b0 b1 b2 b3 b4 = s0 at *
    generalize t1 a0 a1 a2 a3 a4 b0 b1 b2 b3 b4 = s1 at *
    generalize t2 a0 a1 a2 a3 a4 b0 b1 b2 b3 b4 = s2 at *
    generalize t3 a0 a1 a2 a3 a4 b0 b1 b2 b3 b4 = s3 at *
    generalize t4 a0 a1 a2 a3 a4 b0 b1 b2 b3 b4 = s4 at *
    generalize (a0 + a1 * 2251799813685248 + a2 * 5070602400912917605986812821504 + a3 * 11417981541647679048466287755595961091061972992 + a4 * 25711008708143844408671393477458601640355247900524685364822016) * (b0 + b1 * 2251799813685248 + b2 * 5070602400912917605986812821504 + b3 * 11417981541647679048466287755595961091061972992 + b4 * 25711008708143844408671393477458601640355247900524685364822016) = M at *
    generalize a1 * b4 + a2 * b3 + a3 * b2 + a4 * b1 + (a2 * b4 + a3 * b3 + a4 * b2) * 2251799813685248 + (a3 * b4 + a4 * b3) * 5070602400912917605986812821504 + a4 * b4 * 11417981541647679048466287755595961091061972992 = T at *
    have e : s0 % 2251799813685248 + 19 * (s4 / 2251799813685248) + (s1 % 2251799813685248 + s0 / 2251799813685248) * 2251799813685248 + (s2 % 2251799813685248 + s1 / 2251799813685248) * 5070602400912917605986812821504 +
        (s3 % 2251799813685248 + s2 / 2251799813685248) * 11417981541647679048466287755595961091061972992 + (s4 % 2251799813685248 + s3 / 2251799813685248) * 25711008708143844408671393477458601640355247900524685364822016 +
        57896044618658097711785492504343953926634992332820282019728792003956564819949 * (s4 / 2251799813685248 + T) = M + 57896044618658097711785492504343953926634992332820282019728792003956564819949 * 0 + 57896044618658097711785492504343953926634992332820282019728792003956564819949 * (2 * T) - 57896044618658097711785492504343953926634992332820282019728792003956564819949 * (2 * T) := by
      have d0 := Nat.div_add_mod s0 2251799813685248
      have d1 := Nat.div_add_mod s1 2251799813685248
      have d2 := Nat.div_add_mod s2 2251799813685248
      have d3 := Nat.div_add_mod s3 2251799813685248
      have d4 := Nat.div_add_mod s4 2251799813685248
      generalize s0 / 2251799813685248 = u0 at *
      generalize s0 % 2251799813685248 = v0 at *
      generalize s1 / 2251799813685248 = u1 at *
      generalize s1 % 2251799813685248 = v1 at *
      generalize s2 / 2251799813685248 = u2 at *
      generalize s2 % 2251799813685248 = v2 at *
      generalize s3 / 2251799813685248 = u3 at *
      generalize s3 % 2251799813685248 = v3 at *
      generalize s4 / 2251799813685248 = u4 at *
      generalize s4 % 2251799813685248 = v4 at *
      omega
    rw [Nat.mul_zero, Nat.add_zero, Nat.add_sub_cancel] at e
    rw [← e, Nat.add_mul_mod_self_left]
theorem mul_any (g ga gb : Nat) (o a b : List Nat) (w : World) (hw : WAt w g o) (hwa : WAt w ga a) (hwb : WAt w gb b) (ha : Bnd 4503599627370496 a) (hb : Bnd 4503599627370496 b) :
    Calls Try.prog 74 #[.pointer (some ⟨g, 0, none⟩), .pointer (some ⟨ga, 0, none⟩), .pointer (some ⟨gb, 0, none⟩)] w (Sets g (mulL a b) w) := by
  have hbnd := mulW_bnd a b ha hb
  have hR : ∀ w', WAt w' g (mulW a b) → Calls Try.prog 98 #[.pointer (some ⟨g, 0, none⟩)] w' (Sets g (mulL a b) w') := fun w' h => wrap_any g (mulW a b) w' h hbnd
  generalize mulL a b = R at *
  obtain ⟨a0, a1, a2, a3, a4, rfl, ha0, ha1, ha2, ha3, ha4⟩ := bnd5 ha
  obtain ⟨b0, b1, b2, b3, b4, rfl, hb0, hb1, hb2, hb3, hb4⟩ := bnd5 hb
  have l0 := sum5_lt a0 a1 a2 a3 a4 b0 (19 * b4) (19 * b3) (19 * b2) (19 * b1) ha0 ha1 ha2 ha3 ha4 (by omega) (by omega) (by omega) (by omega) (by omega)
  have l1 := sum5_lt a0 a1 a2 a3 a4 b1 b0 (19 * b4) (19 * b3) (19 * b2) ha0 ha1 ha2 ha3 ha4 (by omega) (by omega) (by omega) (by omega) (by omega)
  have l2 := sum5_lt a0 a1 a2 a3 a4 b2 b1 b0 (19 * b4) (19 * b3) ha0 ha1 ha2 ha3 ha4 (by omega) (by omega) (by omega) (by omega) (by omega)
  have l3 := sum5_lt a0 a1 a2 a3 a4 b3 b2 b1 b0 (19 * b4) ha0 ha1 ha2 ha3 ha4 (by omega) (by omega) (by omega) (by omega) (by omega)
  have l4 := sum5_lt' a0 a1 a2 a3 a4 b4 b3 b2 b1 b0 ha0 ha1 ha2 ha3 ha4 hb4 hb3 hb2 hb1 hb0
  have S : ∀ (x0 x1 x2 x3 x4 : Nat), x0 < 85568392920039424 → x1 < 85568392920039424 → x2 < 85568392920039424 → x3 < 85568392920039424 → x4 < 85568392920039424 → ∀ w', WAt w' ga [a0, a1, a2, a3, a4] → Calls Try.prog 96 #[.pointer (some ⟨ga, 0, none⟩), .int .u64 x0, .int .u64 x1, .int .u64 x2, .int .u64 x3, .int .u64 x4] w' fun e w'' => e = .returned (.tuple #[.int .u64 ((a0 * x0 + a1 * x1 + a2 * x2 + a3 * x3 + a4 * x4) / 18446744073709551616 : Nat), .int .u64 ((a0 * x0 + a1 * x1 + a2 * x2 + a3 * x3 + a4 * x4) % 18446744073709551616 : Nat)]) ∧ w'' = w' :=
    fun x0 x1 x2 x3 x4 h0 h1 h2 h3 h4 w' h => sum_any ga a0 a1 a2 a3 a4 x0 x1 x2 x3 x4 w' (h.cell 0 (by omega)) (h.cell 1 (by omega)) (h.cell 2 (by omega)) (h.cell 3 (by omega)) (h.cell 4 (by omega))
      (by omega) (by omega) (by omega) (by omega) (by omega) (by omega) (by omega) (by omega) (by omega) (by omega) (Nat.lt_of_lt_of_le (sum5_lt a0 a1 a2 a3 a4 x0 x1 x2 x3 x4 ha0 ha1 ha2 ha3 ha4 h0 h1 h2 h3 h4) (by decide))
  have Y : ∀ (t : Nat), t < 1926828912346908690274988872171521 → ∀ w, Calls Try.prog 97 #[.int .u64 (t / 18446744073709551616 : Nat), .int .u64 (t % 18446744073709551616 : Nat)] w fun e w' => e = .returned (.int .u64 (t / 2251799813685248 : Nat)) ∧ w' = w := by
    intro t ht w
    have h := beyond_any (t / 18446744073709551616) (t % 18446744073709551616) w (by omega) (mod64 _)
    rw [show t / 18446744073709551616 * 18446744073709551616 + t % 18446744073709551616 = t from by omega] at h
    exact h
  refine mul_core g ga gb o [a0, a1, a2, a3, a4] b0 b1 b2 b3 b4 (19 * b1) (19 * b2) (19 * b3) (19 * b4) _ _ _ _ _ _ _ _ _ _ _ _ _ _ _ (t0 a0 a1 a2 a3 a4 b0 b1 b2 b3 b4 % 2251799813685248) (t0 a0 a1 a2 a3 a4 b0 b1 b2 b3 b4 % 2251799813685248 + 19 * (t4 a0 a1 a2 a3 a4 b0 b1 b2 b3 b4 / 2251799813685248)) _ _ _ _ R w hw hwa hwb (fold19 _ hb1) (fold19 _ hb2) (fold19 _ hb3) (fold19 _ hb4)
    (S b0 (19 * b4) (19 * b3) (19 * b2) (19 * b1) (by omega) (by omega) (by omega) (by omega) (by omega)) (S b1 b0 (19 * b4) (19 * b3) (19 * b2) (by omega) (by omega) (by omega) (by omega) (by omega)) (S b2 b1 b0 (19 * b4) (19 * b3) (by omega) (by omega) (by omega) (by omega) (by omega))
    (S b3 b2 b1 b0 (19 * b4) (by omega) (by omega) (by omega) (by omega) (by omega)) (S b4 b3 b2 b1 b0 (by omega) (by omega) (by omega) (by omega) (by omega))
    (Y _ l0) (Y _ l1) (Y _ l2) (Y _ l3) (Y _ (by omega)) ?_ (word_plus _ _ ?_) (word_plus _ _ ?_) (word_plus _ _ ?_) (word_plus _ _ ?_) ?_ hR
  · exact (and_mask _ (mod64 _)).trans (by rw [Nat.mod_mod_of_dvd _ ⟨8192, by decide⟩]; rfl)
  · change t0 a0 a1 a2 a3 a4 b0 b1 b2 b3 b4 < _ at l0
    show t0 a0 a1 a2 a3 a4 b0 b1 b2 b3 b4 / _ < _
    omega
  · change t1 a0 a1 a2 a3 a4 b0 b1 b2 b3 b4 < _ at l1
    show t1 a0 a1 a2 a3 a4 b0 b1 b2 b3 b4 / _ < _
    omega
  · change t2 a0 a1 a2 a3 a4 b0 b1 b2 b3 b4 < _ at l2
    show t2 a0 a1 a2 a3 a4 b0 b1 b2 b3 b4 / _ < _
    omega
  · change t3 a0 a1 a2 a3 a4 b0 b1 b2 b3 b4 < _ at l3
    show t3 a0 a1 a2 a3 a4 b0 b1 b2 b3 b4 / _ < _
    omega
  · change t4 a0 a1 a2 a3 a4 b0 b1 b2 b3 b4 ≤ _ at l4
    show IntKind.u64.wrap (((t0 a0 a1 a2 a3 a4 b0 b1 b2 b3 b4 % 2251799813685248 : Nat) : Int) + IntKind.u64.wrap (19 * ((t4 a0 a1 a2 a3 a4 b0 b1 b2 b3 b4 / 2251799813685248 : Nat) : Int))) = ((t0 a0 a1 a2 a3 a4 b0 b1 b2 b3 b4 % 2251799813685248 + 19 * (t4 a0 a1 a2 a3 a4 b0 b1 b2 b3 b4 / 2251799813685248) : Nat) : Int)
    generalize t0 a0 a1 a2 a3 a4 b0 b1 b2 b3 b4 = s0 at *
    generalize t4 a0 a1 a2 a3 a4 b0 b1 b2 b3 b4 = s4 at *
    rw [IntKind.wrap_u64, IntKind.wrap_u64]
    omega
theorem mul_val (a b : List Nat) (ha : Bnd 4503599627370496 a) (hb : Bnd 4503599627370496 b) :
    val5 (mulL a b) % 57896044618658097711785492504343953926634992332820282019728792003956564819949 = val5 a * val5 b % 57896044618658097711785492504343953926634992332820282019728792003956564819949 ∧ Bnd 4503599627370496 (mulL a b) := by
  obtain ⟨q, hq, h2, h3⟩ := wrap_val (mulW a b) (mulW_bnd a b ha hb)
  refine ⟨?_, h2.1, fun i hi => Nat.lt_of_lt_of_le (h2.2 i hi) (by decide)⟩
  rw [← mulW_val a b ha.1 hb.1, ← hq, Nat.add_mul_mod_self_right]
  rfl
end Go.Proofs.Ytgdimnbdnepbgaa
