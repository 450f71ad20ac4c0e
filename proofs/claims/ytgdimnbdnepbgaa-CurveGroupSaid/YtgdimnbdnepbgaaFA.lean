/- The field's plain functions: bits beyond 51, sums of products. No statement is proved here. -/
import Derived.Test.YtgdimnbdnepbgaaBs
import Derived.Test.YtgdimnbdnepbgaaShelf
namespace Go.Proofs.Ytgdimnbdnepbgaa
open Go.RowKit
set_option linter.unusedVariables false
set_option maxRecDepth 40000

theorem mod64 (x : Nat) : x % 18446744073709551616 < 18446744073709551616 := Nat.mod_lt _ (by omega)
theorem or_add (a b k : Nat) (h : b < 2 ^ k) : (a * 2 ^ k) ||| b = a * 2 ^ k + b := by
  rw [Nat.mul_comm a, Nat.two_pow_add_eq_or_of_lt h]

theorem shl_nat' (x m : Nat) : IntKind.u64.wrap ((x : Int) * (m : Int)) = ((x * m % 18446744073709551616 : Nat) : Int) := by
  rw [IntKind.wrap_u64]; omega
theorem beyond_num (H L : Nat) (hH : H < 2251799813685248) (hL : L < 18446744073709551616) :
    bits .or .u64 (IntKind.u64.wrap ((H : Int) * 8192)) ((L : Int) / 2251799813685248) = (((H * 18446744073709551616 + L) / 2251799813685248 : Nat) : Int) := by
  have e1 : IntKind.u64.wrap ((H : Int) * 8192) = ((H * 8192 : Nat) : Int) := by rw [IntKind.wrap_u64]; omega
  have e2 : (L : Int) / 2251799813685248 = ((L / 2251799813685248 : Nat) : Int) := by omega
  rw [e1, e2, u64_or_nat _ _ (by omega) (by omega)]
  congr 1
  have := or_add H (L / 2251799813685248) 13 (by omega)
  rw [show (2 : Nat) ^ 13 = 8192 from rfl] at this
  rw [this]
  omega
theorem beyond_any (H L : Nat) (w : World) (hH : H < 2251799813685248) (hL : L < 18446744073709551616) :
    Calls Try.prog 97 #[.int .u64 H, .int .u64 L] w fun e w' => e = .returned (.int .u64 ((H * 18446744073709551616 + L) / 2251799813685248 : Nat)) ∧ w' = w := by
  have h := Lib.hid (beyond_num H L hH hL)
  clear hH hL
  generalize (H * 18446744073709551616 + L) / 2251799813685248 = R at *
  go_enter Try.func97, Try.ntmps97
  go_wp2
  go_ret
  exact ⟨ret_int h.out, rfl⟩

theorem add64_runc (x y c : Nat) (hx : x < 18446744073709551616) (hy : y < 18446744073709551616) (hc : c ≤ 1) (w : World) :
    (callFunc 109 #[.int .u64 x, .int .u64 y, .int .u64 c]).run Try.prog w =
      .ok (.value (.tuple #[.int .u64 (((x + y + c) % 18446744073709551616 : Nat) : Int), .int .u64 (((x + y + c) / 18446744073709551616 : Nat) : Int)])) w := by
  rw [run_callFunc_extern Try.func109 (by kernel_rfl) (by kernel_rfl) (by kernel_rfl) (e := add64Entry) (by kernel_rfl)]
  have h := run_add64 (P := Try.prog) x y c (by omega) (by omega) (by omega) (by omega) w
  rw [h]
  simp [Result.andThen]

theorem plus_num (h l a b : Nat) (hl : l < 18446744073709551616) (ha : a < 18446744073709551616) (hb : b < 18446744073709551616)
    (ht : h * 18446744073709551616 + l + a * b < 340282366920938463463374607431768211456) :
    (l + a * b % 18446744073709551616 + 0) % 18446744073709551616 = (h * 18446744073709551616 + l + a * b) % 18446744073709551616 ∧
      (h + a * b / 18446744073709551616 + (l + a * b % 18446744073709551616 + 0) / 18446744073709551616) % 18446744073709551616 = (h * 18446744073709551616 + l + a * b) / 18446744073709551616 ∧
      (l + a * b % 18446744073709551616 + 0) / 18446744073709551616 ≤ 1 ∧ h < 18446744073709551616 ∧ a * b / 18446744073709551616 < 18446744073709551616 := by
  generalize a * b = t at *
  omega

set_option maxHeartbeats 400000 in
theorem plus_any (h l a b : Nat) (w : World) (hl : l < 18446744073709551616) (ha : a < 18446744073709551616) (hb : b < 18446744073709551616)
    (ht : h * 18446744073709551616 + l + a * b < 340282366920938463463374607431768211456) :
    Calls Try.prog 108 #[.int .u64 h, .int .u64 l, .int .u64 a, .int .u64 b] w fun e w' =>
      e = .returned (.tuple #[.int .u64 ((h * 18446744073709551616 + l + a * b) / 18446744073709551616 : Nat), .int .u64 ((h * 18446744073709551616 + l + a * b) % 18446744073709551616 : Nat)]) ∧ w' = w := by
  obtain ⟨n1, n2, n3, n4, n5⟩ := plus_num h l a b hl ha hb ht
  have CM := Lib.hid (fun w => Try.bits_Mul64 a b ha hb w)
  have A1 : ∀ w, (callFunc 109 #[.int .u64 l, .int .u64 (a * b % 18446744073709551616 : Nat), .int .u64 0]).run Try.prog w =
      .ok (.value (.tuple #[.int .u64 (((l + a * b % 18446744073709551616 + 0) % 18446744073709551616 : Nat) : Int), .int .u64 (((l + a * b % 18446744073709551616 + 0) / 18446744073709551616 : Nat) : Int)])) w :=
    fun w => add64_runc l (a * b % 18446744073709551616) 0 hl (mod64 _) (by omega) w
  have A2 := fun w => add64_runc h (a * b / 18446744073709551616) ((l + a * b % 18446744073709551616 + 0) / 18446744073709551616) n4 n5 n3 w
  rw [n1] at A1
  rw [n2] at A2
  clear n1 n2 n3 n4 n5 ht hl ha hb
  generalize (h * 18446744073709551616 + l + a * b) / 18446744073709551616 = RH at *
  generalize (h * 18446744073709551616 + l + a * b) % 18446744073709551616 = RL at *
  generalize (l + a * b % 18446744073709551616 + 0) / 18446744073709551616 = cy at *
  generalize a * b / 18446744073709551616 = mh at *
  generalize a * b % 18446744073709551616 = ml at *
  go_enter Try.func108, Try.ntmps108
  go_wp2_with ((go_at_call 107); refine (CM.out _).mono ?_; rintro e w' ⟨rfl, rfl⟩)
  exact bodyPost_ret (results_tmp2 rfl _ _ _) rfl ⟨rfl, rfl⟩
end Go.Proofs.Ytgdimnbdnepbgaa
