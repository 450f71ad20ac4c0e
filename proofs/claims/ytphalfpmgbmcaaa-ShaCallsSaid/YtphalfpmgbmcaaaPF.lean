/- Regions in which slices of slices are made between calls, in any order. No statement is proved here. -/
import Derived.Test.YtphalfpmgbmcaaaPE
import Derived.Deep.DeepCutAuto
namespace Go.Proofs.Ytphalfpmgbmcaaa
open Go.RowKit
set_option linter.unusedVariables false

theorem eachW {P : Program} {ops : Array Oper} {Q : Exit → Act → World → Prop} {md : Region.Mode} {W : Nat → Bool} {lo fuel : Nat} {listed : Array Bool} {a : Act} {w : World} (L : List Nat) (hr : Region.ready md ops listed = L) (hL : L ≠ [])
    (h : ∀ i ∈ L, wpOp P ops Q i (fun a' w' => (W i = false → Below lo w w') ∧ wpAnyW P md ops Q W lo fuel (listed.setIfInBounds i true) a' w') a w) : wpAnyW P md ops Q W lo (fuel + 1) listed a w :=
  ⟨fun h0 => absurd (hr.symm.trans h0) hL, fun i hi => h i (by rw [← hr]; exact hi)⟩
theorem two_ways {P : Nat → Prop} {i j : Nat} (hi : P i) (hj : P j) : ∀ k ∈ [i, j], P k := by
  intro k hk
  simp only [List.mem_cons, List.not_mem_nil, or_false] at hk
  rcases hk with rfl | rfl
  · exact hi
  · exact hj
theorem exec_build1 {o : Oper} {a : Act} (w : World) (x : Operand) (ho : o.op = .buildSlice 49 1 #[(0, x)]) {A : Option Addr} {n c : Nat} (hx : a.eval x = .slice A n c) :
    (execOp a.eval o).run Try.prog w = .ok (.value (.slice (some ⟨w.heap.size, 0, none⟩) 1 1)) (w.alloc (.cells #[.slice A n c] 30)) := by
  unfold execOp
  simp only [ho, List.map_toArray, List.map_cons, List.map_nil, hx]
  go_simp
theorem exec_build2 {o : Oper} {a : Act} (w : World) (x y : Operand) (ho : o.op = .buildSlice 49 2 #[(0, x), (1, y)]) {A A' : Option Addr} {n c n' c' : Nat} (hx : a.eval x = .slice A n c) (hy : a.eval y = .slice A' n' c') :
    (execOp a.eval o).run Try.prog w = .ok (.value (.slice (some ⟨w.heap.size, 0, none⟩) 2 2)) (w.alloc (.cells #[.slice A n c, .slice A' n' c'] 30)) := by
  unfold execOp
  simp only [ho, List.map_toArray, List.map_cons, List.map_nil, hx, hy]
  go_simp
theorem exec_build3 {o : Oper} {a : Act} (w : World) (x y z : Operand) (ho : o.op = .buildSlice 49 3 #[(0, x), (1, y), (2, z)]) {A A' A'' : Option Addr} {n c n' c' n'' c'' : Nat} (hx : a.eval x = .slice A n c) (hy : a.eval y = .slice A' n' c') (hz : a.eval z = .slice A'' n'' c'') :
    (execOp a.eval o).run Try.prog w = .ok (.value (.slice (some ⟨w.heap.size, 0, none⟩) 3 3)) (w.alloc (.cells #[.slice A n c, .slice A' n' c', .slice A'' n'' c''] 30)) := by
  unfold execOp
  simp only [ho, List.map_toArray, List.map_cons, List.map_nil, hx, hy, hz]
  go_simp

/-- A slice of parts of one's own. -/
structure PT (w : World) (g : Nat) (L : List (List UInt8)) : Prop where
  parts : Parts w (· < g + 1) (some ⟨g, 0, none⟩) L
  lt : g < w.heap.size
theorem PT.keep {w w' : World} {g : Nat} {L : List (List UInt8)} (h : PT w g L) (hb : Below w.heap.size w w') : PT w' g L :=
  ⟨h.parts.below hb (fun b hb => by have := h.lt; omega), Nat.lt_of_lt_of_le h.lt hb.size⟩
theorem PT.one {w : World} {A : Option Addr} {n c : Nat} {l : List UInt8} {S : Nat → Prop} (h : Src w S A n (bcs l)) (hS : ∀ b, S b → b < w.heap.size) (hc : n ≤ c ∧ c ≤ maxLen) : PT (w.alloc (.cells #[.slice A n c] 30)) w.heap.size [l] := by
  refine ⟨⟨fun i hi => ?_⟩, by simp⟩
  match i, hi with
  | 0, _ =>
    refine ⟨w.heap.size, 0, A, n, c, rfl, by omega, ?_, (h.alloc hS _).weak (fun b hb => by have := hS b hb; omega), hc.1, hc.2⟩
    rw [cell_of_row _ w.heap.size (0 + 0) _ 30 (0, 0) (heap_alloc_new w _)]
    rfl
theorem PT.two {w : World} {A A2 : Option Addr} {n n2 c c2 : Nat} {l l2 : List UInt8} {S : Nat → Prop} (h : Src w S A n (bcs l)) (h2 : Src w S A2 n2 (bcs l2)) (hS : ∀ b, S b → b < w.heap.size) (hc : n ≤ c ∧ c ≤ maxLen) (hc2 : n2 ≤ c2 ∧ c2 ≤ maxLen) :
    PT (w.alloc (.cells #[.slice A n c, .slice A2 n2 c2] 30)) w.heap.size [l, l2] := ⟨pair_parts h h2 hS hS hc hc2, by simp⟩
theorem PT.three {w : World} {A A2 A3 : Option Addr} {n n2 n3 c c2 c3 : Nat} {l l2 l3 : List UInt8} {S : Nat → Prop} (h : Src w S A n (bcs l)) (h2 : Src w S A2 n2 (bcs l2)) (h3 : Src w S A3 n3 (bcs l3)) (hS : ∀ b, S b → b < w.heap.size) (hc : n ≤ c ∧ c ≤ maxLen) (hc2 : n2 ≤ c2 ∧ c2 ≤ maxLen) (hc3 : n3 ≤ c3 ∧ c3 ≤ maxLen) :
    PT (w.alloc (.cells #[.slice A n c, .slice A2 n2 c2, .slice A3 n3 c3] 30)) w.heap.size [l, l2, l3] := ⟨trip_parts h h2 h3 hS hc hc2 hc3, by simp⟩
theorem PT.sum512 {w : World} {g : Nat} {L : List (List UInt8)} (h : PT w g L) (l : List UInt8) (hl : L.flatten = l) (hn : l.length ≤ 1000000000) (m : Nat) (hm : L.length = m) (hm2 : m ≤ 100) :
    Calls Try.prog 9 #[.slice (some ⟨g, 0, none⟩) m m] w (Gives (.agg (bcs (Ytphalfpmgbmcaaa.sum512 l)).toArray) w) := by
  subst hl
  subst hm
  exact sum512_any L w _ _ _ h.parts (fun b hb => by have := h.lt; omega) hn (by omega)
theorem PT.sum256 {w : World} {g : Nat} {L : List (List UInt8)} (h : PT w g L) (l : List UInt8) (hl : L.flatten = l) (hn : l.length ≤ 1000000000) (m : Nat) (hm : L.length = m) (hm2 : m ≤ 100) :
    Calls Try.prog 18 #[.slice (some ⟨g, 0, none⟩) m m] w (Gives (.agg (bcs (Ytphalfpmgbmcaaa.sum256 l)).toArray) w) := by
  subst hl
  subst hm
  exact sum256_any L w _ _ _ h.parts (fun b hb => by have := h.lt; omega) hn (by omega)
theorem split2 (l : List UInt8) (a : Nat) (h : a ≤ l.length) : [(l.drop 0).take (a - 0), (l.drop a).take (l.length - a)].flatten = l := by
  simp only [List.flatten_cons, List.flatten_nil, List.append_nil, List.drop_zero, Nat.sub_zero]
  rw [List.take_of_length_le (l := l.drop a) (by rw [List.length_drop]; omega), List.take_append_drop]
theorem split3 (l : List UInt8) (a k : Nat) (h : a ≤ k) (hk : k ≤ l.length) : [(l.drop 0).take (a - 0), (l.drop a).take (k - a), (l.drop k).take (l.length - k)].flatten = l := by
  have e : (l.drop k).take (l.length - k) = (l.drop a).drop (k - a) := by rw [List.drop_drop, show a + (k - a) = k from by omega, List.take_of_length_le (by rw [List.length_drop]; omega)]
  rw [e]
  simp only [List.flatten_cons, List.flatten_nil, List.append_nil, List.drop_zero, Nat.sub_zero]
  rw [List.take_append_drop, List.take_append_drop]
end Go.Proofs.Ytphalfpmgbmcaaa
