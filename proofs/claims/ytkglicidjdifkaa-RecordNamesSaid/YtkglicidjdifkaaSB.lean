/- The table of words K. No statement is proved here. -/
import Derived.Test.YtkglicidjdifkaaSA

namespace Go.Proofs.Ytkglicidjdifkaa
open Go.RowKit

theorem K80a_one : ∀ u ∈ K80a.toList, u.oneCell' = true := ucs_one K80
set_option maxRecDepth 100000 in
set_option maxHeartbeats 2000000 in
theorem K_any (w : World) : Calls Try.prog 54 #[] w (Gives (.agg K80a) w) := by
  go_enter Try.func54, Try.ntmps54
  go_wp2_with (first | (with_reducible refine wpList_alloc_row rfl 93 rfl (.agg (zw 80)) zero93 ?_; intro w1 hh1 hz1 hg1) | ((with_reducible show wpList _ _ _ (⟨some 1, .build 93 _, _, _, _, _⟩ :: _) _ _); refine wpList_exec (w' := w1) ?g1 (.agg K80a) ?g2 ?_; exact rfl; kernel_rfl) | ((with_reducible show wpList _ _ _ (⟨none, .store 93 (.tmp 0) (.tmp 1), _, _, _, _⟩ :: _) _ _); refine wpList_store_all rfl 93 (.tmp 0) (.tmp 1) rfl w.heap.size rfl K80a rfl 93 (zw 80) hh1 (by rw [size93, K80a_size]) (by rw [K80a_size]; rfl) K80a_one ?_; intro w2 hh2 hg2 hz2))
  go_wp2
  refine bodyPost_ret (results_cell_row rfl _ _ w.heap.size 93 K80a _ _ rfl hh2 under93 rfl (by rw [size93, K80a_size])) rfl ?_
  exact ⟨rfl, (below_of_grownBy hg1).grown hg2 (by omega) (by simp)⟩
end Go.Proofs.Ytkglicidjdifkaa
