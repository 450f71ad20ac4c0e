/- Words: turned, xored, summed; the small functions of package sha. No statement is proved here. -/
import Derived.Test.YtkglicidjdifkaaSM
import Derived.Test.YtkglicidjdifkaaBs
import Derived.Test.YtkglicidjdifkaaOB

namespace Go.Proofs.Ytkglicidjdifkaa
open Go.RowKit

theorem and63 (n : Nat) (h1 : 1 ≤ n) (h2 : n ≤ 63) : bits .and .u64 (IntKind.u64.wrap (-(n : Int))) 63 = 64 - (n : Int) := by
  have e : IntKind.u64.wrap (-(n : Int)) = ((18446744073709551616 - n : Nat) : Int) := by rw [IntKind.wrap_u64]; omega
  have h := u64_and_nat (18446744073709551616 - n) 63 (by omega) (by omega)
  rw [e]
  refine h.trans ?_
  have h3 : (18446744073709551616 - n) &&& 63 = (18446744073709551616 - n) % 64 := Nat.and_two_pow_sub_one_eq_mod _ 6
  rw [h3]
  omega
set_option maxHeartbeats 400000 in
theorem right_any (x n : Nat) (w : World) (hx : x < 18446744073709551616) (h1 : 1 ≤ n) (h2 : n ≤ 63) :
    Calls Try.prog 59 #[.int .u64 x, .int .i64 n] w fun e w' => e = .returned (.int .u64 (rotr x n)) ∧ w = w' := by
  have hm := and63 n h1 h2
  have h3 : (64 : Int) - n ≤ 63 := by omega
  have h4 : (1 : Int) ≤ 64 - n := by omega
  go_enter Try.func59, Try.ntmps59
  go_wp2
  go_ret
  refine ⟨ret_int ?_, rfl⟩
  show bits .or .u64 (IntKind.u64.wrap ((x : Int) * 2 ^ (64 - n))) ((x : Int) / 2 ^ (64 - (64 - n))) = _
  rw [show 64 - (64 - n) = n from by omega, shl_nat, shr_nat, u64_or_nat _ _ (mod64 _) (Nat.lt_of_le_of_lt (Nat.div_le_self x _) hx)]
  rfl

theorem xor_nat {x y : Nat} (hx : x < 18446744073709551616) (hy : y < 18446744073709551616) : bits .xor .u64 (x : Int) (y : Int) = ((x ^^^ y : Nat) : Int) := u64_xor_nat x y hx hy

theorem turns_any (x i j k : Nat) (w : World) (hx : x < 18446744073709551616) (hi : 1 ≤ i ∧ i ≤ 63) (hj : 1 ≤ j ∧ j ≤ 63) (hk : 1 ≤ k ∧ k ≤ 63) :
    Calls Try.prog 56 #[.int .u64 x, .int .i64 i, .int .i64 j, .int .i64 k] w fun e w' => e = .returned (.int .u64 (tri x i j k)) ∧ w = w' := by
  have ri := rotr_lt i hx
  have rj := rotr_lt j hx
  have rk := rotr_lt k hx
  have e1 := xor_nat ri rj
  have e2 := xor_nat (xor64 ri rj) rk
  obtain ⟨hi1, hi2⟩ := hi
  obtain ⟨hj1, hj2⟩ := hj
  obtain ⟨hk1, hk2⟩ := hk
  have C1 := Lib.hid (fun w => right_any x i w hx hi1 hi2)
  have C2 := Lib.hid (fun w => right_any x j w hx hj1 hj2)
  have C3 := Lib.hid (fun w => right_any x k w hx hk1 hk2)
  unfold tri
  go_enter Try.func56, Try.ntmps56
  go_wp2_with fail
  refine (C1.out _).mono ?_
  rintro e w' ⟨rfl, rfl⟩
  go_wp2_with fail
  refine (C2.out _).mono ?_
  rintro e w' ⟨rfl, rfl⟩
  go_wp2_with fail
  refine (C3.out _).mono ?_
  rintro e w' ⟨rfl, rfl⟩
  go_wp2
  go_ret
  exact ⟨rfl, rfl⟩

theorem under93 : Try.prog.underlying 93 = some (.array 80 25) := by kernel_rfl
theorem under64 : Try.prog.underlying 64 = some (.array 8 25) := by kernel_rfl
theorem under84 : Try.prog.underlying 84 = some (.array 128 5) := by kernel_rfl
theorem size93 : (Try.prog.info? 93).map (·.size) = some 80 := by kernel_rfl
theorem size64 : (Try.prog.info? 64).map (·.size) = some 8 := by kernel_rfl
theorem size84 : (Try.prog.info? 84).map (·.size) = some 128 := by kernel_rfl
theorem zero93 (w : World) : (zeroValue 93).run Try.prog w = .ok (.agg (zw 80)) w := by kernel_rfl
theorem zero64 (w : World) : (zeroValue 64).run Try.prog w = .ok (.agg (zw 8)) w := by kernel_rfl

set_option maxHeartbeats 1000000 in
theorem startShort_any (w : World) : Calls Try.prog 30 #[] w (Gives (.agg (ucs start256.words).toArray) w) := by
  go_enter Try.func30, Try.ntmps30
  go_wp2_with (first | (with_reducible refine wpList_alloc_row rfl 64 rfl (.agg (zw 8)) zero64 ?_; intro w1 hh1 hz1 hg1) | ((with_reducible show wpList _ _ _ (⟨none, .store 64 (.tmp 0) (.tmp 1), _, _, _, _⟩ :: _) _ _); refine wpList_store_all rfl 64 (.tmp 0) (.tmp 1) rfl w.heap.size rfl (ucs start256.words).toArray rfl 64 (zw 8) hh1 (by rw [size64]; rfl) rfl (ucs_one _) ?_; intro w2 hh2 hg2 hz2))
  go_wp2
  refine bodyPost_ret (results_cell_row rfl _ _ w.heap.size 64 (ucs start256.words).toArray _ _ rfl hh2 under64 rfl (by rw [size64]; rfl)) rfl ?_
  exact ⟨rfl, (below_of_grownBy hg1).grown hg2 (by omega) (by simp)⟩

def K80a : Array Value := (ucs K80).toArray
theorem K80a_list : K80a.toList = ucs K80 := rfl
theorem K80a_size : K80a.size = 80 := by simp [K80a, ucs, K80]

end Go.Proofs.Ytkglicidjdifkaa
