/- slices.Grow, slices.Concat and Pad. No statement is proved here. -/
import Derived.Test.YtkglicidjdifkaaSN
import Derived.Lib.AppendZerosOnto
namespace Go.Proofs.Ytkglicidjdifkaa
open Go.RowKit
set_option linter.unusedVariables false

theorem under3 : Try.prog.underlying 3 = some (.int .i64) := by kernel_rfl
set_option maxRecDepth 100000 in
set_option maxHeartbeats 1000000 in
theorem grow_any (n : Nat) (hn : 0 < n) (hn2 : n ≤ 2000000000) (w : World) : Calls Try.prog 33 #[.slice none 0 0, .int .i64 n] w (GivesB w []) := by
  obtain ⟨i0, hi, hz0, hz1, hz2⟩ := info_parts info5
  have hrz : ∀ ty, ∃ v' w', (Builtin.append_ #[26, 3] ty #[.slice none 0 0, .int .i64 (n : Int)]).run Try.prog w = .ok (.slice (some ⟨w.heap.size, 0, none⟩) n v') w' ∧ n ≤ v' ∧ v' ≤ maxLen ∧ OwnB w' w.heap.size (.slice (some ⟨w.heap.size, 0, none⟩) 0 v') [] ∧ Below w.heap.size w w' := fun ty => by
    have h := Lib.run_append_grow_zeros (P := Try.prog) w 26 3 ty 5 i0 (.int .u8 0) .i64 .i64 under26 under3 hi hz0 none 0 0 [] (by exact run_firstCells_none w.drew i0.size 0 0 0) n hn (by omega) (by omega) (by omega) (by rw [hz2]; omega)
      (growslice_fits (by omega) (by rw [hz2]; omega))
    rw [Nat.zero_add] at h
    have hge := grownCap_ge w n 0 5
    have hcm : grownCap w n 0 5 ≤ maxLen := grownCap_le_maxLen w n 0 5 (by unfold maxLen; omega)
    refine ⟨_, _, h, hge, hcm, OwnB.of_row (l := []) (Nat.le_refl _) (heap_alloc_new w.drew _) ?_ (by simp) hcm rfl, ⟨rfl, rfl, rfl, by simp, fun k hk => heap_alloc_old w.drew _ (by show k < w.heap.size; omega)⟩⟩
    simp only [Array.size_append, size_zeroCells, List.size_toArray, List.length_nil]
    have : (Value.int IntKind.u8 0).cells.size = 1 := rfl
    rw [this]
    omega
  obtain ⟨G, w', h0, hge, hcm, ho, hb⟩ := hrz 30
  have HO := Lib.hid ho
  have HB := Lib.hid hb
  have hGi : (0 : Int) ≤ (G : Int) := by omega
  clear hrz ho hb hz0 hz1 hz2 hi
  have hG63 : G ≤ 9223372036854775807 := by unfold maxLen at hcm; omega
  clear hcm
  go_enter Try.func33, Try.ntmps33
  go_wp2_with (at_builtin; refine Lib.wpList_append_run _ rfl _ _ _ _ rfl _ _ rfl rfl _ _ h0 ?_)
  all_goals (go_ret; exact ⟨_, rfl, HO.out, HB.out⟩)

set_option maxRecDepth 100000 in
set_option maxHeartbeats 1000000 in
theorem concat_any (L : List (List UInt8)) (w : World) (S : Nat → Prop) (P : Option Addr) (pc : Nat) (hp : Parts w S P L) (hS : ∀ b, S b → b < w.heap.size) (h0 : 0 < L.flatten.length) (hsum : L.flatten.length ≤ 2000000000) (hm : L.length ≤ 1000000000) :
    Calls Try.prog 23 #[.slice P L.length pc] w (GivesB w L.flatten) := by
  have HP := Lib.hid hp
  clear hp
  go_enter Try.func23, Try.ntmps23
  go_wp2_with fail
  go_loopw [3, 5, 11] (fun z _ i wr => ∃ j : Nat, j ≤ L.length ∧ i = .int .i64 j ∧ z = .int .i64 ((L.take j).flatten.length : Nat) ∧ w = wr) (fun _ _ i _ => L.length - (intOf i).toNat)
  case atStart => exact ⟨0, by omega, rfl, rfl, rfl⟩
  case round =>
    obtain ⟨j, hj, rfl, rfl, rfl⟩ := hrel
    by_cases hlt : j < L.length
    · have HFS := Lib.hid (flat_snoc L j hlt)
      have hfl := flat_le L (j + 1)
      rw [flat_snoc L j hlt] at hfl
      obtain ⟨b, o, A, n, c, rfl, hb, hcell, hsrc, hnc, hcm⟩ := HP.out.at_ j hlt
      have hpl : (L.getD j []).length = n := src_len hsrc
      have hji : (j : Int) < (L.length : Int) := by omega
      clear hsrc
      have HPL := Lib.hid hpl
      generalize L.getD j [] = p at *
      generalize (L.take j).flatten = D at *
      have hdl : D.length + n ≤ 2000000000 := by rw [List.length_append, hpl] at hfl; omega
      clear hpl hfl
      go_wp2_with fail
      go_roundw
      case rel =>
        have hsz : ((D.length : Int) + (n : Int)) = ((D ++ p).length : Int) := by have := HPL.out; rw [List.length_append]; omega
        rw [hsz]
        refine ⟨j + 1, by omega, by go_num, by rw [HFS.out], ?_⟩
        first | rfl | trivial
      case measure => simp [intOf]; omega
    · obtain rfl : j = L.length := by omega
      clear hlt hj
      have hfl : (L.take L.length).flatten = L.flatten := by rw [List.take_length]
      rw [hfl]
      clear hfl
      have HG := Lib.hid (grow_any L.flatten.length h0 hsum w)
      have HLE : Hid (∀ j, (L.take j).flatten.length ≤ L.flatten.length) := Lib.hid (flat_le L)
      have HN : Hid (∃ N, N = L.flatten.length ∧ N ≤ 2000000000) := Lib.hid ⟨_, rfl, hsum⟩
      have HFL : Hid ((L.take L.length).flatten = L.flatten) := Lib.hid (by rw [List.take_length])
      clear h0 HN
      generalize L.flatten.length = N at *
      generalize L.flatten = R at *
      go_wp2_with fail
      refine HG.out.mono ?_
      rintro e1 w1 ⟨v, rfl, ho1, hb1⟩
      have HO1 := Lib.hid ho1
      have HB1 := Lib.hid hb1
      clear ho1 hb1 HG
      go_wp2_with fail
      go_loopw [6, 8, 27] (fun r _ i wr => ∃ j : Nat, j ≤ L.length ∧ i = .int .i64 j ∧ OwnB wr w.heap.size r (L.take j).flatten ∧ Below w.heap.size w wr) (fun _ _ i _ => L.length - (intOf i).toNat)
      case atStart => exact ⟨0, by omega, rfl, by simpa using HO1.out, HB1.out⟩
      case round =>
        obtain ⟨j, hj, rfl, ho, hbw⟩ := hrel
        have HO := Lib.hid ho
        have HB := Lib.hid hbw
        have hsz := hbw.size
        clear ho hbw HO1 HB1
        by_cases hlt : j < L.length
        · have HFS := Lib.hid (flat_snoc L j hlt)
          have hfl := HLE.out (j + 1)
          rw [flat_snoc L j hlt] at hfl
          obtain ⟨b, o, A, n, c, rfl, hb, hcell, hsrc, hnc, hcm⟩ := HP.out.at_ j hlt
          have hpl : (L.getD j []).length = n := src_len hsrc
          have hji : (j : Int) < (L.length : Int) := by omega
          have hcw : wr.cell? ⟨b, o + j, none⟩ = some (.slice A n c) := (HB.out.cell (p := ⟨b, o + j, none⟩) (hS b hb)).trans hcell
          have HSR : Hid (Src wr S A n (bcs (L.getD j []))) := Lib.hid (hsrc.below' HB.out hS)
          clear hsrc hcell
          generalize L.getD j [] = p at *
          generalize (L.take j).flatten = D at *
          have hdl : D.length + n ≤ 2000000000 := by rw [List.length_append, hpl] at hfl; omega
          clear hfl
          have HPL := Lib.hid hpl
          clear hpl
          go_wp2_with (at_builtin; refine wpList_appB ?g1 _ _ rfl w.heap.size _ _ rfl HO.out _ _ _ _ p rfl HSR.out (by omega) hsz ?_; exact rfl; intro v' w3 ho3 hb3)
          have HO3 := Lib.hid ho3
          have HB3 : Hid (Below w.heap.size w w3) := Lib.hid (HB.out.trans hb3)
          clear ho3 hb3
          go_wp2
          go_roundw
          case rel =>
            first | exact ⟨j + 1, by omega, by go_num, by rw [HFS.out]; exact HO3.out, HB3.out⟩ | ((repeat apply Exists.intro); exact ⟨⟨j + 1, by omega, by go_num, by rw [HFS.out]; exact HO3.out, HB3.out⟩, rfl⟩)
          case measure => simp [intOf]; omega
        · obtain rfl : j = L.length := by omega
          rw [HFL.out] at HO
          clear hlt hj
          go_wp2
          go_ret
          exact ⟨_, rfl, HO.out, HB.out⟩

theorem OwnB.low {w : World} {B B' : Nat} {v : Value} {l : List UInt8} (h : OwnB w B v l) (hb : B' ≤ B) : OwnB w B' v l := by
  obtain ⟨A, cap, e, h1, h2, h3⟩ := h.ex
  refine ⟨A, cap, e, h1, h2, ?_⟩
  rcases h3 with h3 | ⟨g, off, cur, e, hg, r⟩
  · exact .inl h3
  · exact .inr ⟨g, off, cur, e, Nat.le_trans hb hg, r⟩
theorem pair_parts {w : World} {S S2 : Nat → Prop} {A A2 : Option Addr} {n n2 c c2 : Nat} {l l2 : List UInt8} (h : Src w S A n (bcs l)) (h2 : Src w S2 A2 n2 (bcs l2)) (hS : ∀ b, S b → b < w.heap.size) (hS2 : ∀ b, S2 b → b < w.heap.size)
    (hc : n ≤ c ∧ c ≤ maxLen) (hc2 : n2 ≤ c2 ∧ c2 ≤ maxLen) :
    Parts (w.alloc (.cells #[.slice A n c, .slice A2 n2 c2] 26)) (· < w.heap.size + 1) (some ⟨w.heap.size, 0, none⟩) [l, l2] := by
  refine ⟨fun i hi => ?_⟩
  have hh := heap_alloc_new w (.cells #[.slice A n c, .slice A2 n2 c2] 26)
  match i, hi with
  | 0, _ =>
    refine ⟨w.heap.size, 0, A, n, c, rfl, by omega, ?_, (h.alloc hS _).weak (fun b hb => by have := hS b hb; omega), hc.1, hc.2⟩
    rw [cell_of_row _ w.heap.size (0 + 0) _ 26 (0, 0) hh]
    rfl
  | 1, _ =>
    refine ⟨w.heap.size, 0, A2, n2, c2, rfl, by omega, ?_, (h2.alloc hS2 _).weak (fun b hb => by have := hS2 b hb; omega), hc2.1, hc2.2⟩
    rw [cell_of_row _ w.heap.size (0 + 1) _ 26 (0, 0) hh]
    rfl
end Go.Proofs.Ytkglicidjdifkaa
