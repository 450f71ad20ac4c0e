/- Whether there are few calls; equal lists of places. No statement is proved here. -/
import Derived.Test.YtfhjcfoecmbhkaaLD
namespace Go.Proofs.Ytfhjcfoecmbhkaa
open Go.RowKit Go.Maps
set_option linter.unusedVariables false
set_option linter.unusedSimpArgs false

/-- Few calls, each keeping few. -/
def SmallP (w : World) (n : Nat) (l : List ActV) (e : Ending) (w' : World) : Prop := ∃ r : Bool, e = .returned (.bool r) ∧ w' = w ∧ (r = true → n ≤ 80 ∧ ∀ v ∈ l, v.kn ≤ 80)
set_option maxRecDepth 100000 in
set_option maxHeartbeats 1000000 in
theorem small_any (w : World) (A : Option Addr) (n c : Nat) (l : List ActV) (h : Acts w A n l) : Calls Try.prog 18 #[.slice A n c] w (SmallP w n l) := by
  have HA := Lib.hid h
  have hl := h.len
  clear h
  subst hl
  go_enter Try.func18, Try.ntmps18
  go_wp2
  go_loopw [3] (fun v wr => ∃ i : Nat, i ≤ 81 ∧ i ≤ l.length ∧ v = .int .i64 i ∧ wr = w ∧ ∀ j v, l[j]? = some v → j < i → v.kn ≤ 80) (fun v _ => 81 - (valOf v).toNat)
  case atStart => exact ⟨0, by omega, by omega, rfl, rfl, fun j v _ hj => by omega⟩
  case round =>
    obtain ⟨i, hi, hil, rfl, rfl, hk⟩ := hrel
    have HK := Lib.hid hk
    clear hk
    by_cases h1 : i < l.length
    · by_cases h2 : i ≤ 80
      · obtain ⟨b, o, rfl, hb, hc⟩ := HA.out.lies (by omega)
        have hv : l[i]? = some l[i] := List.getElem?_eq_getElem h1
        have c4 := hc i _ hv 4 _ rfl
        have h1' : (i : Int) < (l.length : Int) := by omega
        have h2' : (i : Int) ≤ 80 := by omega
        generalize l[i] = v at *
        have HVV := Lib.hid hv
        clear hc hv
        by_cases h3 : v.kn ≤ 80
        · have h3' : ¬ ((80 : Int) < (v.kn : Int)) := by omega
          go_wp2
          refine ⟨⟨i + 1, by omega, by omega, by go_num, trivial, fun j v' hv' hj => ?_⟩, by simp [valOf]; omega⟩
          rcases Nat.lt_or_ge j i with h | h
          · exact HK.out j v' hv' h
          · obtain rfl : j = i := by omega
            have := hv'.symm.trans HVV.out
            cases this
            exact h3
        · have h3' : (80 : Int) < (v.kn : Int) := by omega
          go_wp2
          go_ret
          exact ⟨false, rfl, rfl, fun h => by cases h⟩
      · have h1' : (i : Int) < (l.length : Int) := by omega
        have h2' : ¬ ((i : Int) ≤ 80) := by omega
        have h4 : ¬ ((l.length : Int) ≤ 80) := by omega
        go_wp2
        go_ret
        exact ⟨false, rfl, rfl, fun h => by cases h⟩
    · obtain rfl : i = l.length := by omega
      go_wp2
      go_ret
      refine ⟨_, rfl, rfl, fun h => ⟨by simp at h; omega, fun v hv => ?_⟩⟩
      obtain ⟨j, hj, rfl⟩ := List.getElem_of_mem hv
      exact HK.out j _ (List.getElem?_eq_getElem hj) hj

set_option maxRecDepth 100000 in
set_option maxHeartbeats 1000000 in
theorem ints_eq (w : World) (A1 A2 : Option Addr) (c1 c2 : Nat) (l : List Nat) (S1 S2 : Nat → Prop) (h1 : Src w S1 A1 l.length (Ytfhjcfoecmbhkaa.ics l)) (h2 : Src w S2 A2 l.length (Ytfhjcfoecmbhkaa.ics l)) (hl : l.length ≤ 1000000) (hS1 : ∀ b, S1 b → b < w.heap.size) (hS2 : ∀ b, S2 b → b < w.heap.size) :
    Calls Try.prog 27 #[.slice A1 l.length c1, .slice A2 l.length c2] w fun e w' => e = .returned (.bool true) ∧ Below w.heap.size w w' := by
  have H1 := Lib.hid h1
  have H2 := Lib.hid h2
  clear h1 h2
  go_enter Try.func27, Try.ntmps27
  go_wp2
  go_loopw [5] (fun v wr => ∃ i : Nat, i ≤ l.length ∧ v = .int .i64 i ∧ Below w.heap.size w wr) (fun v _ => l.length - (valOf v).toNat)
  case atStart => exact ⟨0, by omega, rfl, Below.refl _ _⟩
  case round =>
    obtain ⟨i, hi, rfl, hb⟩ := hrel
    have HB := Lib.hid hb
    by_cases h1 : i < l.length
    · obtain ⟨b1, o1, rfl, _, k1⟩ := (H1.out.below' hb hS1).lies (by omega)
      obtain ⟨b2, o2, rfl, _, k2⟩ := (H2.out.below' hb hS2).lies (by omega)
      have hv : l[i]? = some l[i] := List.getElem?_eq_getElem h1
      have e1 := (k1 i h1).trans (by unfold Ytfhjcfoecmbhkaa.ics; rw [List.getElem?_map, hv]; rfl : _ = some (Value.int .i64 (l[i] : Int)))
      have e2 := (k2 i h1).trans (by unfold Ytfhjcfoecmbhkaa.ics; rw [List.getElem?_map, hv]; rfl : _ = some (Value.int .i64 (l[i] : Int)))
      have h1' : (i : Int) < (l.length : Int) := by omega
      generalize l[i] = x at *
      clear k1 k2 hv H1 H2 hb
      go_wp2_with fail
      have e1' : ({ heap := wr.heap, tape := wr.tape, drawn := wr.drawn + 1, os := wr.os, output := wr.output } : World).cell? ⟨b1, o1 + i, none⟩ = some (.int .i64 (x : Int)) := e1
      have e2' : ({ heap := wr.heap, tape := wr.tape, drawn := wr.drawn + 1, os := wr.os, output := wr.output } : World).cell? ⟨b2, o2 + i, none⟩ = some (.int .i64 (x : Int)) := e2
      go_still (by kernel_rfl)
      go_wp2
      refine ⟨⟨i + 1, by omega, by go_num, HB.out.drew⟩, by simp [valOf]; omega⟩
    · obtain rfl : i = l.length := by omega
      go_wp2
      go_ret
      exact ⟨rfl, hb⟩
end Go.Proofs.Ytfhjcfoecmbhkaa
