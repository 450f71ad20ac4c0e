/- The field's read, in numbers. No statement is proved here. -/
import Derived.Test.YtgdimnbdnepbgaaFE
namespace Go.Proofs.Ytgdimnbdnepbgaa
open Go.RowKit
set_option linter.unusedVariables false
set_option maxRecDepth 40000

theorem and_mask (x : Nat) (hx : x < 18446744073709551616) : bits .and .u64 (x : Int) 2251799813685247 = ((x % 2251799813685248 : Nat) : Int) := by
  have h := u64_and_nat x 2251799813685247 hx (by omega)
  have e : x &&& 2251799813685247 = x % 2251799813685248 := Nat.and_two_pow_sub_one_eq_mod x 51
  rw [e] at h
  exact h
theorem cross_bits (a b D E k : Nat) (hE : E = 2 ^ k) (hD : 0 < D) (hDE : D * E = 18446744073709551616) (ha : a < 18446744073709551616) :
    bits .and .u64 (bits .or .u64 ((a : Int) / (D : Int)) (IntKind.u64.wrap ((b : Int) * (E : Int)))) 2251799813685247 = (((a / D + b % D * E) % 2251799813685248 : Nat) : Int) := by
  have h1 : a / D < E := by rw [Nat.div_lt_iff_lt_mul hD, Nat.mul_comm]; omega
  have h2 : b * E % 18446744073709551616 = b % D * E := by rw [← hDE, Nat.mul_mod_mul_right]
  have h3 : b % D * E < 18446744073709551616 := by rw [← h2]; exact mod64 _
  have h4 : a / D < 18446744073709551616 := Nat.lt_of_le_of_lt (Nat.div_le_self _ _) ha
  have e1 : IntKind.u64.wrap ((b : Int) * (E : Int)) = ((b % D * E : Nat) : Int) := by
    rw [show (b : Int) * (E : Int) = ((b * E : Nat) : Int) from by simp, wrap_nat, h2]
  have e2 : (a : Int) / (D : Int) = ((a / D : Nat) : Int) := by simp
  have e3 : (a / D) ||| (b % D * E) = a / D + b % D * E := by
    have := or_add (b % D) (a / D) k (by omega)
    rw [← hE] at this
    rw [Nat.or_comm, this, Nat.add_comm]
  have h5 : a / D + b % D * E < 18446744073709551616 := by
    have : (b % D + 1) * E ≤ D * E := Nat.mul_le_mul_right E (Nat.mod_lt _ hD)
    rw [Nat.add_mul, hDE] at this
    omega
  rw [e1, e2, u64_or_nat _ _ h4 h3, e3, and_mask _ h5]

/-- The words of five that read makes. -/
def w51 (q0 q1 q2 q3 : Nat) : List Nat := [q0 % 2251799813685248, (q0 / 2251799813685248 + q1 % 2251799813685248 * 8192) % 2251799813685248, (q1 / 274877906944 + q2 % 274877906944 * 67108864) % 2251799813685248,
  (q2 / 33554432 + q3 % 33554432 * 549755813888) % 2251799813685248, q3 / 4096]
def rdw (l : List UInt8) : List Nat := w51 (q8 l 0) (q8 l 8) (q8 l 16) (q8 l 24)
/-- The number of five words. -/
def val5 : List Nat → Nat
  | [a, b, c, d, e] => a + b * 2251799813685248 + c * 5070602400912917605986812821504 + d * 11417981541647679048466287755595961091061972992 + e * 25711008708143844408671393477458601640355247900524685364822016
  | _ => 0
/-- The number of 32 bytes. -/
def nv (l : List UInt8) : Nat := q8 l 0 + q8 l 8 * 18446744073709551616 + q8 l 16 * 340282366920938463463374607431768211456 + q8 l 24 * 6277101735386680763835789423207666416102355444464034512896
/-- Each word is below b. -/
def Bnd (b : Nat) (o : List Nat) : Prop := o.length = 5 ∧ ∀ i, i < 5 → o.getD i 0 < b

theorem w51_val (q0 q1 q2 q3 : Nat) (h0 : q0 < 18446744073709551616) (h1 : q1 < 18446744073709551616) (h2 : q2 < 18446744073709551616) (h3 : q3 < 18446744073709551616) :
    val5 (w51 q0 q1 q2 q3) = q0 + q1 * 18446744073709551616 + q2 * 340282366920938463463374607431768211456 + q3 * 6277101735386680763835789423207666416102355444464034512896 := by
  have e1 : (q0 / 2251799813685248 + q1 % 2251799813685248 * 8192) % 2251799813685248 = q0 / 2251799813685248 + q1 % 274877906944 * 8192 := by omega
  have e2 : (q1 / 274877906944 + q2 % 274877906944 * 67108864) % 2251799813685248 = q1 / 274877906944 + q2 % 33554432 * 67108864 := by omega
  have e3 : (q2 / 33554432 + q3 % 33554432 * 549755813888) % 2251799813685248 = q2 / 33554432 + q3 % 4096 * 549755813888 := by omega
  unfold val5 w51
  simp only [e1, e2, e3]
  have d0 := Nat.div_add_mod q0 2251799813685248
  have d1 := Nat.div_add_mod q1 274877906944
  have d2 := Nat.div_add_mod q2 33554432
  have d3 := Nat.div_add_mod q3 4096
  generalize q0 / 2251799813685248 = b0 at *
  generalize q0 % 2251799813685248 = a0 at *
  generalize q1 / 274877906944 = b1 at *
  generalize q1 % 274877906944 = a1 at *
  generalize q2 / 33554432 = b2 at *
  generalize q2 % 33554432 = a2 at *
  generalize q3 / 4096 = b3 at *
  generalize q3 % 4096 = a3 at *
  omega
theorem w51_bnd (q0 q1 q2 q3 : Nat) (h3 : q3 < 18446744073709551616) : Bnd 4503599627370496 (w51 q0 q1 q2 q3) := by
  refine ⟨rfl, fun i hi => ?_⟩
  unfold w51
  match i, hi with
  | 0, _ => simp only [List.getD_cons_zero]; omega
  | 1, _ => simp only [List.getD_cons_zero, List.getD_cons_succ]; omega
  | 2, _ => simp only [List.getD_cons_zero, List.getD_cons_succ]; omega
  | 3, _ => simp only [List.getD_cons_zero, List.getD_cons_succ]; omega
  | 4, _ => simp only [List.getD_cons_zero, List.getD_cons_succ]; omega
theorem rdw_val (l : List UInt8) : val5 (rdw l) = nv l := w51_val _ _ _ _ (q8_lt _ _) (q8_lt _ _) (q8_lt _ _) (q8_lt _ _)
theorem rdw_bnd (l : List UInt8) : Bnd 4503599627370496 (rdw l) := w51_bnd _ _ _ _ (q8_lt _ _)

theorem read_any (g ga : Nat) (o : List Nat) (l : List UInt8) (w : World) (ho : WAt w g o) (hl : NumAt w ga l) :
    Calls Try.prog 65 #[.pointer (some ⟨g, 0, none⟩), .pointer (some ⟨ga, 0, none⟩)] w (Sets g (rdw l) w) := by
  have M0 : ∀ w', NumAt w' ga l → Calls Try.prog 92 #[.pointer (some ⟨ga, 0, none⟩)] w' (Gives (.agg (ucs [q8 l 0, q8 l 8, q8 l 16, q8 l 24]).toArray) w') := fun w' h => split_any ga l w' h
  have B0 := q8_lt l 0
  have B1 := q8_lt l 8
  have B2 := q8_lt l 16
  have B3 := q8_lt l 24
  unfold rdw w51
  exact read_core g ga o l w _ _ _ _ _ _ _ _ _ ho hl M0 (and_mask _ B0)
    (cross_bits _ _ 2251799813685248 8192 13 rfl (by omega) rfl B0) (cross_bits _ _ 274877906944 67108864 26 rfl (by omega) rfl B1) (cross_bits _ _ 33554432 549755813888 39 rfl (by omega) rfl B2) (Lib.hid (by simp))
end Go.Proofs.Ytgdimnbdnepbgaa
