/- The field's sums of products over words that lie in memory. No statement is proved here. -/
import Derived.Test.YtgdimnbdnepbgaaFA
namespace Go.Proofs.Ytgdimnbdnepbgaa
open Go.RowKit
set_option linter.unusedVariables false
set_option maxRecDepth 40000

theorem plus_at (t a b : Nat) (w : World) (ha : a < 18446744073709551616) (hb : b < 18446744073709551616)
    (ht : t + a * b < 340282366920938463463374607431768211456) :
    Calls Try.prog 108 #[.int .u64 (t / 18446744073709551616 : Nat), .int .u64 (t % 18446744073709551616 : Nat), .int .u64 a, .int .u64 b] w fun e w' =>
      e = .returned (.tuple #[.int .u64 ((t + a * b) / 18446744073709551616 : Nat), .int .u64 ((t + a * b) % 18446744073709551616 : Nat)]) ∧ w' = w := by
  have e : t / 18446744073709551616 * 18446744073709551616 + t % 18446744073709551616 = t := by omega
  have h := plus_any (t / 18446744073709551616) (t % 18446744073709551616) a b w (mod64 _) ha hb (by rw [e]; exact ht)
  rw [e] at h
  exact h

set_option maxHeartbeats 800000 in
theorem sum_any (g a0 a1 a2 a3 a4 b0 b1 b2 b3 b4 : Nat) (w : World)
    (c0 : w.cell? ⟨g, 0, none⟩ = some (.int .u64 a0)) (c1 : w.cell? ⟨g, 1, none⟩ = some (.int .u64 a1)) (c2 : w.cell? ⟨g, 2, none⟩ = some (.int .u64 a2))
    (c3 : w.cell? ⟨g, 3, none⟩ = some (.int .u64 a3)) (c4 : w.cell? ⟨g, 4, none⟩ = some (.int .u64 a4))
    (ha0 : a0 < 18446744073709551616) (ha1 : a1 < 18446744073709551616) (ha2 : a2 < 18446744073709551616) (ha3 : a3 < 18446744073709551616) (ha4 : a4 < 18446744073709551616)
    (hb0 : b0 < 18446744073709551616) (hb1 : b1 < 18446744073709551616) (hb2 : b2 < 18446744073709551616) (hb3 : b3 < 18446744073709551616) (hb4 : b4 < 18446744073709551616)
    (ht : a0 * b0 + a1 * b1 + a2 * b2 + a3 * b3 + a4 * b4 < 340282366920938463463374607431768211456) :
    Calls Try.prog 96 #[.pointer (some ⟨g, 0, none⟩), .int .u64 b0, .int .u64 b1, .int .u64 b2, .int .u64 b3, .int .u64 b4] w fun e w' =>
      e = .returned (.tuple #[.int .u64 ((a0 * b0 + a1 * b1 + a2 * b2 + a3 * b3 + a4 * b4) / 18446744073709551616 : Nat), .int .u64 ((a0 * b0 + a1 * b1 + a2 * b2 + a3 * b3 + a4 * b4) % 18446744073709551616 : Nat)]) ∧ w' = w := by
  have M0 := Lib.hid (fun w => Try.bits_Mul64 a0 b0 ha0 hb0 w)
  have M1 := Lib.hid (fun w => plus_at (a0 * b0) a1 b1 w ha1 hb1 (by omega))
  have M2 := Lib.hid (fun w => plus_at (a0 * b0 + a1 * b1) a2 b2 w ha2 hb2 (by omega))
  have M3 := Lib.hid (fun w => plus_at (a0 * b0 + a1 * b1 + a2 * b2) a3 b3 w ha3 hb3 (by omega))
  have M4 := Lib.hid (fun w => plus_at (a0 * b0 + a1 * b1 + a2 * b2 + a3 * b3) a4 b4 w ha4 hb4 ht)
  clear ha0 ha1 ha2 ha3 ha4 hb0 hb1 hb2 hb3 hb4 ht
  generalize a0 * b0 + a1 * b1 + a2 * b2 + a3 * b3 + a4 * b4 = t4 at *
  generalize a0 * b0 + a1 * b1 + a2 * b2 + a3 * b3 = t3 at *
  generalize a0 * b0 + a1 * b1 + a2 * b2 = t2 at *
  generalize a0 * b0 + a1 * b1 = t1 at *
  generalize a0 * b0 = t0 at *
  generalize t0 / 18446744073709551616 = h0 at *
  generalize t0 % 18446744073709551616 = l0 at *
  generalize t1 / 18446744073709551616 = h1 at *
  generalize t1 % 18446744073709551616 = l1 at *
  generalize t2 / 18446744073709551616 = h2 at *
  generalize t2 % 18446744073709551616 = l2 at *
  generalize t3 / 18446744073709551616 = h3 at *
  generalize t3 % 18446744073709551616 = l3 at *
  generalize t4 / 18446744073709551616 = h4 at *
  generalize t4 % 18446744073709551616 = l4 at *
  go_enter Try.func96, Try.ntmps96
  go_wp2_with fail
  refine (M0.out _).mono ?_
  rintro e w' ⟨rfl, rfl⟩
  go_wp2_with fail
  refine (M1.out _).mono ?_
  rintro e w' ⟨rfl, rfl⟩
  go_wp2_with fail
  refine (M2.out _).mono ?_
  rintro e w' ⟨rfl, rfl⟩
  go_wp2_with fail
  refine (M3.out _).mono ?_
  rintro e w' ⟨rfl, rfl⟩
  go_wp2_with fail
  refine (M4.out _).mono ?_
  rintro e w' ⟨rfl, rfl⟩
  go_wp2_with fail
  exact bodyPost_ret (results_tmp2 rfl _ _ _) rfl ⟨rfl, rfl⟩
end Go.Proofs.Ytgdimnbdnepbgaa
