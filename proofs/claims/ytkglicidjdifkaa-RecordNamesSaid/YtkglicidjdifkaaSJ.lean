/- Pick; three parts. No statement is proved here. -/
import Derived.Test.YtkglicidjdifkaaSN

namespace Go.Proofs.Ytkglicidjdifkaa
open Go.RowKit
set_option linter.unusedVariables false

/-- Pick. -/
theorem pick_any (n : Int) (m : Nat) (hn : -9223372036854775808 ≤ n ∧ n ≤ 9223372036854775807) (h0 : 0 < m) (hm : m ≤ 1000000000) (w : World) :
    Calls Try.prog 18 #[.int .i64 n, .int .i64 m] w fun e w' => (∃ j : Nat, j < m ∧ e = .returned (.int .i64 j)) ∧ w' = w := by
  obtain ⟨r, hr, hr1, hr2⟩ : ∃ r : Int, n.tmod m = r ∧ -(m : Int) < r ∧ r < (m : Int) := by
    refine ⟨_, rfl, ?_, ?_⟩
    · have := Int.tmod_lt_of_pos (-n) (b := (m : Int)) (by omega)
      rw [Int.neg_tmod] at this
      omega
    · exact Int.tmod_lt_of_pos n (by omega)
  have h1 : ¬ ((m : Int) < 1) := by omega
  have h2 : ¬ ((m : Int) = 0) := by omega
  clear hn
  by_cases hneg : r < 0
  · have hd : decide (r < 0) = true := by simp; omega
    obtain ⟨j, hj⟩ := Int.eq_ofNat_of_zero_le (show 0 ≤ r + m by omega)
    go_enter Try.func18, Try.ntmps18
    go_wp2
    go_ret
    exact ⟨⟨j, by omega, by rw [← hj]; rfl⟩, rfl⟩
  · have hd : decide (r < 0) = false := by simp; omega
    obtain ⟨j, rfl⟩ := Int.eq_ofNat_of_zero_le (show 0 ≤ r by omega)
    go_enter Try.func18, Try.ntmps18
    go_wp2
    go_ret
    exact ⟨⟨j, by omega, rfl⟩, rfl⟩

theorem cell_trip {w : World} (v0 v1 v2 : Value) (i : Nat) (u : Value) (h : [v0, v1, v2][i]? = some u) : (w.alloc (.cells #[v0, v1, v2] 26)).cell? ⟨w.heap.size, 0 + i, none⟩ = some u := by
  rw [cell_of_row _ w.heap.size (0 + i) _ 26 (0, 0) (heap_alloc_new w _), Nat.zero_add]
  simpa using h
/-- Three parts, written out. -/
theorem trip_parts {w : World} {A0 A1 A2 : Option Addr} {n0 n1 n2 c0 c1 c2 : Nat} {l0 l1 l2 : List UInt8} {S : Nat → Prop} (h0 : Src w S A0 n0 (bcs l0)) (h1 : Src w S A1 n1 (bcs l1)) (h2 : Src w S A2 n2 (bcs l2)) (hS : ∀ b, S b → b < w.heap.size)
    (hc0 : n0 ≤ c0 ∧ c0 ≤ maxLen) (hc1 : n1 ≤ c1 ∧ c1 ≤ maxLen) (hc2 : n2 ≤ c2 ∧ c2 ≤ maxLen) :
    Parts (w.alloc (.cells #[.slice A0 n0 c0, .slice A1 n1 c1, .slice A2 n2 c2] 26)) (· < w.heap.size + 1) (some ⟨w.heap.size, 0, none⟩) [l0, l1, l2] := by
  refine ⟨fun i hi => ?_⟩
  have hw : ∀ b, S b → b < w.heap.size + 1 := fun b hb => by have := hS b hb; omega
  match i, hi with
  | 0, _ => exact ⟨w.heap.size, 0, A0, n0, c0, rfl, by omega, cell_trip _ _ _ 0 _ rfl, (h0.alloc hS _).weak hw, hc0.1, hc0.2⟩
  | 1, _ => exact ⟨w.heap.size, 0, A1, n1, c1, rfl, by omega, cell_trip _ _ _ 1 _ rfl, (h1.alloc hS _).weak hw, hc1.1, hc1.2⟩
  | 2, _ => exact ⟨w.heap.size, 0, A2, n2, c2, rfl, by omega, cell_trip _ _ _ 2 _ rfl, (h2.alloc hS _).weak hw, hc2.1, hc2.2⟩
end Go.Proofs.Ytkglicidjdifkaa
