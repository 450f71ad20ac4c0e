/- The reference's words: turned, K, Start. No statement is proved here. -/
import Derived.Test.YtphalfpmgbmcaaaPV
import Derived.StillTailTactics
import Derived.BigQuiet
namespace Go.Proofs.Ytphalfpmgbmcaaa
open Go.RowKit
set_option linter.unusedVariables false

set_option maxHeartbeats 400000 in
theorem rrot_any (x n : Nat) (w : World) (hx : x < 18446744073709551616) (h1 : 1 ≤ n) (h2 : n ≤ 63) :
    Calls Try.prog 50 #[.int .u64 x, .int .i64 n] w fun e w' => e = .returned (.int .u64 (rotr x n)) ∧ w = w' := by
  have h3 : (64 : Int) - n ≤ 63 := by omega
  have h4 : (1 : Int) ≤ 64 - n := by omega
  go_enter Try.func50, Try.ntmps50
  go_wp2
  go_ret
  refine ⟨ret_int ?_, rfl⟩
  show bits .or .u64 ((x : Int) / 2 ^ n) (IntKind.u64.wrap ((x : Int) * 2 ^ (64 - n))) = _
  rw [shl_nat, shr_nat, u64_or_nat _ _ (Nat.lt_of_le_of_lt (Nat.div_le_self x _) hx) (mod64 _), Nat.or_comm]
  rfl

set_option maxHeartbeats 1000000 in
theorem rstart_any (w : World) : Calls Try.prog 24 #[] w (Gives (.agg (ucs start512.words).toArray) w) := by
  go_enter Try.func24, Try.ntmps24
  go_wp2_with (first | (with_reducible refine wpList_alloc_row rfl 27 rfl (.agg (zw 8)) zero27 ?_; intro w1 hh1 hz1 hg1) | ((with_reducible show wpList _ _ _ (⟨none, .store 27 (.tmp 0) (.tmp 1), _, _, _, _⟩ :: _) _ _); refine wpList_store_all rfl 27 (.tmp 0) (.tmp 1) rfl w.heap.size rfl (ucs start512.words).toArray rfl 27 (zw 8) hh1 (by rw [size27]; rfl) rfl (ucs_one _) ?_; intro w2 hh2 hg2 hz2))
  go_wp2
  refine bodyPost_ret (results_cell_row rfl _ _ w.heap.size 27 (ucs start512.words).toArray _ _ rfl hh2 under27 rfl (by rw [size27]; rfl)) rfl ?_
  exact ⟨rfl, (below_of_grownBy hg1).grown hg2 (by omega) (by simp)⟩
end Go.Proofs.Ytphalfpmgbmcaaa
