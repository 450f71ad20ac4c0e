/- Words: turned, xored, summed; the small functions of package sha. No statement is proved here. -/
import Derived.Test.YtphalfpmgbmcaaaR
import Derived.Test.YtphalfpmgbmcaaaM
import Derived.Test.YtphalfpmgbmcaaaShelf
namespace Go.Proofs.Ytphalfpmgbmcaaa
open Go.RowKit

theorem ret_int {k : IntKind} {a b : Int} (h : a = b) : Ending.returned (.int k a) = .returned (.int k b) := by rw [h]

theorem and63 (n : Nat) (h1 : 1 ≤ n) (h2 : n ≤ 63) : bits .and .u64 (IntKind.u64.wrap (-(n : Int))) 63 = 64 - (n : Int) := by
  have e : IntKind.u64.wrap (-(n : Int)) = ((18446744073709551616 - n : Nat) : Int) := by rw [IntKind.wrap_u64]; omega
  have h := u64_and_nat (18446744073709551616 - n) 63 (by omega) (by omega)
  rw [e]
  refine h.trans ?_
  have h3 : (18446744073709551616 - n) &&& 63 = (18446744073709551616 - n) % 64 := Nat.and_two_pow_sub_one_eq_mod _ 6
  rw [h3]
  omega
theorem wrap_nat (x : Nat) : IntKind.u64.wrap (x : Int) = ((x % 18446744073709551616 : Nat) : Int) := by rw [IntKind.wrap_u64]; omega
theorem shl_nat (x k : Nat) : IntKind.u64.wrap ((x : Int) * 2 ^ k) = ((x * 2 ^ k % 18446744073709551616 : Nat) : Int) := by
  rw [← wrap_nat]; congr 1
theorem shr_nat (x k : Nat) : (x : Int) / 2 ^ k = ((x / 2 ^ k : Nat) : Int) := by simp

set_option maxHeartbeats 400000 in
theorem right_any (x n : Nat) (w : World) (hx : x < 18446744073709551616) (h1 : 1 ≤ n) (h2 : n ≤ 63) :
    Calls Try.prog 49 #[.int .u64 x, .int .i64 n] w fun e w' => e = .returned (.int .u64 (rotr x n)) ∧ w = w' := by
  have hm := and63 n h1 h2
  have h3 : (64 : Int) - n ≤ 63 := by omega
  have h4 : (1 : Int) ≤ 64 - n := by omega
  go_enter Try.func49, Try.ntmps49
  go_wp2
  go_ret
  refine ⟨ret_int ?_, rfl⟩
  show bits .or .u64 (IntKind.u64.wrap ((x : Int) * 2 ^ (64 - n))) ((x : Int) / 2 ^ (64 - (64 - n))) = _
  rw [show 64 - (64 - n) = n from by omega, shl_nat, shr_nat, u64_or_nat _ _ (mod64 _) (Nat.lt_of_le_of_lt (Nat.div_le_self x _) hx)]
  rfl

theorem xor_nat {x y : Nat} (hx : x < 18446744073709551616) (hy : y < 18446744073709551616) : bits .xor .u64 (x : Int) (y : Int) = ((x ^^^ y : Nat) : Int) := u64_xor_nat x y hx hy

theorem turns_any (x i j k : Nat) (w : World) (hx : x < 18446744073709551616) (hi : 1 ≤ i ∧ i ≤ 63) (hj : 1 ≤ j ∧ j ≤ 63) (hk : 1 ≤ k ∧ k ≤ 63) :
    Calls Try.prog 41 #[.int .u64 x, .int .i64 i, .int .i64 j, .int .i64 k] w fun e w' => e = .returned (.int .u64 (tri x i j k)) ∧ w = w' := by
  have ri := rotr_lt i hx
  have rj := rotr_lt j hx
  have rk := rotr_lt k hx
  have e1 := xor_nat ri rj
  have e2 := xor_nat (xor64 ri rj) rk
  obtain ⟨hi1, hi2⟩ := hi
  obtain ⟨hj1, hj2⟩ := hj
  obtain ⟨hk1, hk2⟩ := hk
  have C1 := Lib.hid (fun w => right_any x i w hx hi1 hi2)
  have C2 := Lib.hid (fun w => right_any x j w hx hj1 hj2)
  have C3 := Lib.hid (fun w => right_any x k w hx hk1 hk2)
  unfold tri
  go_enter Try.func41, Try.ntmps41
  go_wp2_with fail
  refine (C1.out _).mono ?_
  rintro e w' ⟨rfl, rfl⟩
  go_wp2_with fail
  refine (C2.out _).mono ?_
  rintro e w' ⟨rfl, rfl⟩
  go_wp2_with fail
  refine (C3.out _).mono ?_
  rintro e w' ⟨rfl, rfl⟩
  go_wp2
  go_ret
  exact ⟨rfl, rfl⟩

/-- Numbers as cells. -/
def uc (n : Nat) : Value := .int .u64 (n : Int)
def ucs (l : List Nat) : List Value := l.map uc
theorem ucs_len (l : List Nat) : (ucs l).length = l.length := List.length_map ..
theorem ucs_one (l : List Nat) : ∀ u ∈ ucs l, u.oneCell' = true := by
  intro u hu
  obtain ⟨b, _, rfl⟩ := List.mem_map.1 hu
  rfl
theorem ucs_append (a b : List Nat) : ucs (a ++ b) = ucs a ++ ucs b := List.map_append ..
theorem ucs_get (l : List Nat) (i : Nat) : (ucs l)[i]? = l[i]?.map uc := List.getElem?_map ..

theorem under25 : Try.prog.underlying 25 = some (.array 80 24) := by kernel_rfl
theorem under27 : Try.prog.underlying 27 = some (.array 8 24) := by kernel_rfl
theorem under33 : Try.prog.underlying 33 = some (.array 128 5) := by kernel_rfl
theorem size25 : (Try.prog.info? 25).map (·.size) = some 80 := by kernel_rfl
theorem size27 : (Try.prog.info? 27).map (·.size) = some 8 := by kernel_rfl
theorem size33 : (Try.prog.info? 33).map (·.size) = some 128 := by kernel_rfl
/-- So many zero words. -/
def zw (n : Nat) : Array Value := (ucs (List.replicate n 0)).toArray
theorem zero25 (w : World) : (zeroValue 25).run Try.prog w = .ok (.agg (zw 80)) w := by kernel_rfl
theorem zero27 (w : World) : (zeroValue 27).run Try.prog w = .ok (.agg (zw 8)) w := by kernel_rfl

/-- What comes back is a value, and everything older is as it was. -/
def Gives (v : Value) (w : World) (e : Ending) (w' : World) : Prop := e = .returned v ∧ Below w.heap.size w w'

set_option maxHeartbeats 1000000 in
theorem start_any (w : World) : Calls Try.prog 11 #[] w (Gives (.agg (ucs start512.words).toArray) w) := by
  go_enter Try.func11, Try.ntmps11
  go_wp2_with (first | (with_reducible refine wpList_alloc_row rfl 27 rfl (.agg (zw 8)) zero27 ?_; intro w1 hh1 hz1 hg1) | ((with_reducible show wpList _ _ _ (⟨none, .store 27 (.tmp 0) (.tmp 1), _, _, _, _⟩ :: _) _ _); refine wpList_store_all rfl 27 (.tmp 0) (.tmp 1) rfl w.heap.size rfl (ucs start512.words).toArray rfl 27 (zw 8) hh1 (by rw [size27]; rfl) rfl (ucs_one _) ?_; intro w2 hh2 hg2 hz2))
  go_wp2
  refine bodyPost_ret (results_cell_row rfl _ _ w.heap.size 27 (ucs start512.words).toArray _ _ rfl hh2 under27 rfl (by rw [size27]; rfl)) rfl ?_
  exact ⟨rfl, (below_of_grownBy hg1).grown hg2 (by omega) (by simp)⟩

set_option maxHeartbeats 1000000 in
theorem startShort_any (w : World) : Calls Try.prog 25 #[] w (Gives (.agg (ucs start256.words).toArray) w) := by
  go_enter Try.func25, Try.ntmps25
  go_wp2_with (first | (with_reducible refine wpList_alloc_row rfl 27 rfl (.agg (zw 8)) zero27 ?_; intro w1 hh1 hz1 hg1) | ((with_reducible show wpList _ _ _ (⟨none, .store 27 (.tmp 0) (.tmp 1), _, _, _, _⟩ :: _) _ _); refine wpList_store_all rfl 27 (.tmp 0) (.tmp 1) rfl w.heap.size rfl (ucs start256.words).toArray rfl 27 (zw 8) hh1 (by rw [size27]; rfl) rfl (ucs_one _) ?_; intro w2 hh2 hg2 hz2))
  go_wp2
  refine bodyPost_ret (results_cell_row rfl _ _ w.heap.size 27 (ucs start256.words).toArray _ _ rfl hh2 under27 rfl (by rw [size27]; rfl)) rfl ?_
  exact ⟨rfl, (below_of_grownBy hg1).grown hg2 (by omega) (by simp)⟩

def K80a : Array Value := (ucs K80).toArray
theorem K80a_list : K80a.toList = ucs K80 := rfl
theorem K80a_size : K80a.size = 80 := by simp [K80a, ucs, K80]

theorem wpList_exec {P : Program} {ops : Array Oper} {rest : List Oper} {o : Oper} {a : Act} {w w' : World} {Q : Exit → Act → World → Prop} (hgd : Region.wanted o (yielded ops a.tmps) = true) (v : Value) (hrun : (execOp a.eval o).run P w = .ok (.value v) w')
    (h : wpList P ops Q rest (a.put o.dst v) w') : wpList P ops Q (o :: rest) a w := by
  refine wpList_want hgd fun K hK => ?_
  unfold Oper.wp
  rw [hrun]
  exact hK _ _ h

end Go.Proofs.Ytphalfpmgbmcaaa
