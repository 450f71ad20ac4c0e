/- Slices of bytes of the call's own that may begin anywhere in their row: appends. No statement is proved here. -/
import Derived.Test.YtkglicidjdifkaaSE

namespace Go.Proofs.Ytkglicidjdifkaa
open Go.RowKit
set_option linter.unusedVariables false

theorem under26 : Try.prog.underlying 26 = some (.slice 5) := by kernel_rfl
/-- The slice value v reads as l, in a row from block B on; its spare room lies in that row, too. -/
structure OwnB (w : World) (B : Nat) (v : Value) (l : List UInt8) : Prop where
  ex : ∃ A cap, v = .slice A l.length cap ∧ l.length ≤ cap ∧ cap ≤ maxLen ∧
    (cap = 0 ∨ ∃ g off cur, A = some ⟨g, off, none⟩ ∧ B ≤ g ∧ w.heap[g]? = some (.cells cur 5 (0, 0)) ∧ cur.size = off + cap ∧ (cur.toList.drop off).take l.length = bcs l)

section
variable {w w' : World} {B : Nat} {v : Value} {l : List UInt8}
theorem OwnB.src (h : OwnB w B v l) : ∃ A cap, v = .slice A l.length cap ∧ l.length ≤ cap ∧ cap ≤ maxLen ∧ Src w (fun g => B ≤ g ∧ g < w.heap.size) A l.length (bcs l) := by
  obtain ⟨A, cap, rfl, h1, h2, h3⟩ := h.ex
  refine ⟨A, cap, rfl, h1, h2, bcs_len l, fun hn => ?_⟩
  rcases h3 with h3 | ⟨g, off, cur, rfl, hb, hg, hs, ht⟩
  · omega
  · refine ⟨g, off, rfl, ⟨hb, (Array.getElem?_eq_some_iff.1 hg).1⟩, fun i hi => ?_⟩
    rw [cell_of_row w g (off + i) cur 5 (0, 0) hg, ← ht, List.getElem?_take, if_pos hi, List.getElem?_drop]
    simp
/-- Everything from B on, but for one row below B, is as it was. -/
theorem OwnB.grown {row : Option Nat} (h : OwnB w B v l) (hg : w.grownBy w' row) (hr : ∀ r, row = some r → r < B) : OwnB w' B v l := by
  obtain ⟨A, cap, rfl, h1, h2, h3⟩ := h.ex
  refine ⟨A, cap, rfl, h1, h2, ?_⟩
  rcases h3 with h3 | ⟨g, off, cur, rfl, hb, hgg, hs, ht⟩
  · exact .inl h3
  · refine .inr ⟨g, off, cur, rfl, hb, ?_, hs, ht⟩
    rw [hg.block g (Array.getElem?_eq_some_iff.1 hgg).1 (fun e => by have := hr g e.symm; omega)]
    exact hgg
theorem OwnB.keep (h : OwnB w B v l) (hb : Below w.heap.size w w') : OwnB w' B v l := h.grown (grownBy_of_below hb none) (by simp)
theorem OwnB.drewN (h : OwnB w B v l) (k : Nat) : OwnB (w.drewN k) B v l := ⟨h.ex⟩
/-- A fresh row. -/
theorem OwnB.of_row {g cap : Nat} {cur : Array Value} (hB : B ≤ g) (hg : w.heap[g]? = some (.cells cur 5 (0, 0))) (hs : cur.size = cap) (hl : l.length ≤ cap) (hm : cap ≤ maxLen) (ht : cur.toList.take l.length = bcs l) :
    OwnB w B (.slice (some ⟨g, 0, none⟩) l.length cap) l :=
  ⟨_, cap, rfl, hl, hm, .inr ⟨g, 0, cur, rfl, hB, hg, by omega, by simpa using ht⟩⟩
theorem OwnB.of_nil (A : Option Addr) : OwnB w B (.slice A 0 0) [] := ⟨A, 0, rfl, by simp, by simp [maxLen], .inl rfl⟩

theorem bcs_takeD (l : List UInt8) (k : Nat) : bcs (l.take k) = (bcs l).take k := by simp [bcs, List.map_take]
theorem bcs_drop (l : List UInt8) (k : Nat) : bcs (l.drop k) = (bcs l).drop k := by simp [bcs, List.map_drop]

/-- append from any source onto such a slice. -/
theorem run_appB (w : World) (B : Nat) (v : Value) (l : List UInt8) (ty : TypeId) (h : OwnB w B v l) (S : Nat → Prop) (A : Option Addr) (m c : Nat) (ys : List UInt8) (hs : Src w S A m (bcs ys))
    (hb : l.length + m ≤ 1099511627776) (hB : B ≤ w.heap.size) :
    ∃ v' w', (Builtin.append_ #[26, 26] ty #[v, .slice A m c]).run Try.prog w = .ok v' w' ∧ OwnB w' B v' (l ++ ys) ∧ Below B w w' := by
  obtain ⟨i0, hi, hz0, hz1, hz2⟩ := info_parts info5
  have hm : ys.length = m := src_len hs
  obtain ⟨A0, cap, rfl, h1, h2, h3⟩ := h.ex
  have hlen : (l ++ ys).length = l.length + m := by rw [List.length_append, hm]
  have h63 : ((l.length + m : Nat) : Int) ≤ 9223372036854775807 := by omega
  rcases Nat.eq_zero_or_pos m with h0 | h0
  · subst h0
    have hy : ys = [] := List.eq_nil_of_length_eq_zero hm
    subst hy
    refine ⟨.slice A0 l.length cap, w, ?_, by simpa using h, Below.refl _ _⟩
    rcases A with _ | ad <;> rcases A0 with _ | a0
    all_goals simp [Builtin.append_, run_underlying under26, sizeOf, typeInfo, hi, Builtin.lenOf, Builtin.firstCells, h1, storeCells, loadCells, loadCellsFrom]
  · obtain ⟨b, o, rfl, _, _⟩ := hs.lies h0
    have hnews : ∀ j u, (bcs ys)[j]? = some u → w.cell? ((⟨b, o, none⟩ : Addr).add j) = some u := fun j u hu => Src.cells hs j u hu
    have hl : (bcs ys).length = m * i0.size := by rw [bcs_len, hm, hz1, Nat.mul_one]
    by_cases hroom : l.length + m ≤ cap
    · rcases h3 with h3 | ⟨g, off, cur, rfl, hbg, hg, hcs, ht⟩
      · omega
      · have hf := run_firstCells_some (P := Try.prog) w i0.size m ⟨b, o, none⟩ m c (bcs ys) hl hnews
        have hst := run_storeCells_at Try.prog g (off + l.length) 5 (bcs ys) 0 cur w hg (by simp [bcs_len]; omega) (bcs_one _)
        simp only [Nat.add_zero] at hst
        have hadd : (⟨g, off, none⟩ : Addr).add (l.length * i0.size) = ⟨g, off + l.length, none⟩ := by rw [hz1, Nat.mul_one]; unfold Addr.add; split <;> simp_all
        have hNs : (List.take (off + l.length) cur.toList ++ bcs ys ++ List.drop (off + l.length + (bcs ys).length) cur.toList).toArray.size = off + cap := by
          simp only [List.size_toArray, List.length_append, List.length_take, List.length_drop, Array.length_toList, bcs_len]
          omega
        have hNt : ((List.take (off + l.length) cur.toList ++ bcs ys ++ List.drop (off + l.length + (bcs ys).length) cur.toList).toArray.toList.drop off).take (l ++ ys).length = bcs (l ++ ys) := by
          have hlc : off + l.length ≤ cur.toList.length := by simp; omega
          have hd : (List.take (off + l.length) cur.toList ++ bcs ys ++ List.drop (off + l.length + (bcs ys).length) cur.toList).drop off = bcs l ++ bcs ys ++ List.drop (off + l.length + (bcs ys).length) cur.toList := by
            rw [List.append_assoc, List.drop_append_of_le_length (by rw [List.length_take]; omega), List.drop_take, show off + l.length - off = l.length from by omega, ht, List.append_assoc]
          rw [List.toList_toArray, hd, ← bcs_append, List.take_left' (by rw [bcs_len])]
        generalize (List.take (off + l.length) cur.toList ++ bcs ys ++ List.drop (off + l.length + (bcs ys).length) cur.toList).toArray = N at *
        refine ⟨.slice (some ⟨g, off, none⟩) (l.length + m) cap, w.setRow g N, ?_, ⟨some ⟨g, off, none⟩, cap, by rw [hlen], by rw [hlen]; exact hroom, h2, .inr ⟨g, off, N, rfl, hbg, setRow_heap w g cur _ 5 _ hg, hNs, hNt⟩⟩, (Below.refl _ w).grown (setRow_grown w g _) hB (fun r hr => by injection hr; omega)⟩
        simp [Builtin.append_, run_underlying under26, sizeOf, typeInfo, hi, Builtin.lenOf, hroom, hf, hadd, hst]
    · have hgrown : ∀ (old : Nat), old < l.length + m →
          OwnB (w.drew.alloc (.cells ((bcs l).toArray ++ (bcs ys).toArray ++ Builtin.zeroCells (Value.int .u8 0).cells (grownCap w (l.length + m) old 5 - (l.length + m))) 5)) B
            (.slice (some ⟨w.heap.size, 0, none⟩) (l.length + m) (grownCap w (l.length + m) old 5)) (l ++ ys) := fun old ho => by
        have hge := grownCap_ge w (l.length + m) old 5
        have hcm : grownCap w (l.length + m) old 5 ≤ maxLen := grownCap_le_maxLen w (l.length + m) old 5 (by unfold maxLen; omega)
        rw [← hlen]
        rw [← hlen] at hge hcm
        refine OwnB.of_row hB (heap_alloc_new w.drew _) ?_ hge hcm ?_
        · simp only [Array.size_append, List.size_toArray, size_zeroCells, bcs_len, hm]
          have : (Value.int IntKind.u8 0).cells.size = 1 := rfl
          rw [this]
          omega
        · simp only [Array.toList_append, List.append_assoc]
          rw [← List.append_assoc, ← bcs_append, List.take_left' (by rw [bcs_len])]
      have hbel : ∀ cs, Below B w (w.drew.alloc (.cells cs 5)) := fun cs => ⟨rfl, rfl, rfl, by simp, fun k hk => heap_alloc_old w.drew _ (by show k < w.heap.size; omega)⟩
      rcases A0 with _ | a0
      · have hc0 : cap = 0 := by
          rcases h3 with h3 | ⟨g, off, cur, e, _⟩
          · exact h3
          · cases e
        subst hc0
        have hl0 : l = [] := List.eq_nil_of_length_eq_zero (by omega)
        subst hl0
        have hr := run_append_nil (P := Try.prog) w 26 ty 5 i0 (.int .u8 0) under26 hi hz0 ⟨b, o, none⟩ m c (bcs ys) hl hnews h0 (by simpa using h63) (by rw [hz2]; simp at hb; omega)
        have hg := hgrown 0 (by simpa using h0)
        simp only [List.length_nil, Nat.zero_add] at hg hr
        exact ⟨_, _, hr, by simpa [bcs] using hg, hbel _⟩
      · have hr := run_append_grow (P := Try.prog) w 26 ty 5 i0 (.int .u8 0) under26 hi hz0 a0 l.length cap (bcs l) (by rw [bcs_len, hz1, Nat.mul_one]) (fun j u hu => ?_) ⟨b, o, none⟩ m c (bcs ys) hl hnews (by omega) h63 (growslice_fits (by omega) (by rw [hz2]; omega))
        · exact ⟨_, _, hr, hgrown cap (by omega), hbel _⟩
        · rcases h3 with h3 | ⟨g, off, cur, e, hbg, hg, hcs, ht⟩
          · have hl0 : l = [] := List.eq_nil_of_length_eq_zero (by omega)
            subst hl0
            simp [bcs] at hu
          · injection e with e
            subst e
            have hadd : (⟨g, off, none⟩ : Addr).add j = ⟨g, off + j, none⟩ := by unfold Addr.add; split <;> simp_all
            rw [hadd, cell_of_row w g (off + j) cur 5 (0, 0) hg]
            rw [← ht, List.getElem?_take] at hu
            split at hu
            · rw [List.getElem?_drop] at hu
              simpa using hu
            · cases hu
end
end Go.Proofs.Ytkglicidjdifkaa
