/- The places that are cached. No statement is proved here. -/
import Derived.Test.YtfhjcfoecmbhkaaDD
import Derived.Test.YtfhjcfoecmbhkaaSK
namespace Go.Proofs
open Go.RowKit Go.Maps Go.Sort Go.Shelf
/-- slices.Sort's two contracts at this translation. -/
theorem Try.sortsA (m : Nat) : AnyZI.SortsIn Try.prog Try.sortedA_ren Fence.wide m :=
  ⟨fun blk off cap ss W hH hblk hsz => callsIn_wide.2 (AnyM.slices_Sort_int Try.sortA blk off cap ss W hH hblk hsz),
   fun p cap W => callsIn_wide.2 (AnyM.slices_Sort_int_none Try.sortA p cap W)⟩
/-- maps.Keys. -/
theorem Try.keys_call (mb : Option Nat) (W : World) : Calls Try.prog 37 #[.map mb] W fun e w' => e = .returned (.func (.func 49) #[] #[.pointer (some ⟨W.heap.size, 0, none⟩)]) ∧ w' = W.alloc (.cells #[.map mb] 65) :=
  (callsIn_wide (n := 5)).1 (AnyZI.keys_in Try.keysA Fence.wide 5 trivial rfl mb W)
set_option maxHeartbeats 1000000 in
/-- slices.Sorted of what maps.Keys handed back. -/
theorem Try.sorted_call {H : Type} (b nn : Nat) (D0 : DataW H) (R : Value → Option (DataW H × List MemPlace)) (w : World) (hown : w.ownsMap Try.prog 3 R b nn D0) (hmax : Maps.size D0 ≤ maxLen) (hbytes : Maps.size D0 * 8 ≤ 140737488355328) :
    Calls Try.prog 36 #[.func (.func 49) #[] #[.pointer (some ⟨w.heap.size, 0, none⟩)]] (w.alloc (.cells #[.map (some b)] 65)) fun e w' => ∃ (v : Value) (ss : List Int), e = .returned v ∧ ss.Perm (intKeys D0) ∧
      w'.ownsRow w.heap.size 3 1 v ss.length ((ss.mergeSort (fun x y => decide (x ≤ y))).map encZ) ∧ Below w.heap.size w w' := by
  refine (callsIn_wide (n := 5)).1 ?_
  have hbl := hown.lt
  have hseq : SeqGives Fence.wide 2 Try.prog 49 #[.pointer (some ⟨w.heap.size, 0, none⟩)] encZ (fun ss => ss.Perm (intKeys D0)) (Maps.size D0) (w.alloc (.cells #[.map (some b)] 65)) :=
    AnyZI.keys_gives (ρ := Try.keysA_ren) { Try.keysA with } Fence.wide _ trivial rfl (by omega) w.heap.size b nn D0 _ (by simp) (by simp) (by
      obtain ⟨es, clock, hb, Ft, hs, hD⟩ := hown
      exact ⟨es, clock, (Below.heap_alloc _ _ b hbl).trans hb, Ft, hs, hD⟩)
  have cS := AnyZI.sorted_in Try.sortedA Fence.wide 5 trivial trivial trivial trivial rfl (by omega) (Try.sortsA _) (enters_of Try.func48 (by kernel_rfl) rfl) 49 #[.pointer (some ⟨w.heap.size, 0, none⟩)] trivial (enters_of Try.func49 (by kernel_rfl) rfl) _ _ hmax hbytes _ hseq
  change CallsIn _ _ Try.prog 36 _ _ _ at cS
  refine cS.mono ?_
  rintro e w' ⟨v, ss, rfl, hS, hrow, hnil, hb⟩
  exact ⟨v, ss, rfl, hS, ownsRow_base_a hrow (by simp), ((Below.refl _ w).alloc (Nat.le_refl _) _).trans (hb.mono (by simp))⟩
end Go.Proofs
namespace Go.Proofs.Ytfhjcfoecmbhkaa
open Go.RowKit Go.Maps
set_option linter.unusedVariables false
set_option linter.unusedSimpArgs false
/-- Places as cells. -/
def ics (l : List Nat) : List Value := l.map fun i : Nat => .int .i64 (i : Int)
section
variable {w : World} {lo hi p n : Nat} {S : Nat → List UInt8} {C : Nat → Option (List UInt8)}
set_option maxHeartbeats 600000 in
theorem cached_any (h : Dk w lo hi p n S C) : Calls Try.prog 13 #[.pointer (some ⟨p, 0, none⟩)] w fun e w' => ∃ v, e = .returned v ∧ w'.ownsRow w.heap.size 3 1 v (cks n C).length (ics (cks n C)) ∧ Below w.heap.size w w' := by
  have hV := valid_any h
  obtain ⟨bs, bm, cap, cur, D, h⟩ := h
  have c1 := h.c1
  have hsz := h.ca.size_le h.hm
  have hn2 := h.n2
  have HS := Lib.hid (Try.sorted_call bm _ D tokR w h.hm (by unfold maxLen; omega) (by omega))
  have HK := Lib.hid (h.ca.keys (h.hm.canon K3))
  clear h
  go_enter Try.func13, Try.ntmps13
  go_wp2_with (first | (go_at_call 35; refine hV.mono ?_; rintro e w' ⟨rfl, rfl⟩) | (go_at_call 37; refine (Try.keys_call _ _).mono ?_; rintro e2 w2 ⟨rfl, rfl⟩) | (go_at_call 36; go_must (refine HS.out.mono ?_; rintro e3 w3 ⟨v3, ss, rfl, hp3, ho3, hb3⟩)))
  go_ret
  refine ⟨v3, rfl, ?_, hb3⟩
  have e1 := (mergeSort_of_perm_i (hp3.trans HK.out.symm)).trans (cks_sorted n C)
  have e2 := (hp3.trans HK.out.symm).length_eq
  rw [List.length_map] at e2
  rw [show (fun x y : Int => decide (x ≤ y)) = leI from rfl, e1, e2, List.map_map] at ho3
  exact ho3
end
set_option maxHeartbeats 600000 in
theorem cached_nil (w : World) : Calls Try.prog 13 #[.pointer none] w fun e w' => e = .returned (.slice none 0 0) ∧ w' = w := by
  have hV := valid_nil
  go_enter Try.func13, Try.ntmps13
  go_wp2_with (go_at_call 35; refine (hV _).mono ?_; rintro e w' ⟨rfl, rfl⟩)
  go_ret
  exact ⟨rfl, rfl⟩
end Go.Proofs.Ytfhjcfoecmbhkaa
