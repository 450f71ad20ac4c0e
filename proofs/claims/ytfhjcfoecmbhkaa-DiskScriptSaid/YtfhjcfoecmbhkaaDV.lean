/- A disk of an image. No statement is proved here. -/
import Derived.Test.YtfhjcfoecmbhkaaDT
namespace Go.Proofs.Ytfhjcfoecmbhkaa
open Go.RowKit Go.Maps
set_option linter.unusedVariables false
set_option linter.unusedSimpArgs false
/-- The sectors of an image. -/
def secs (L : List UInt8) (i : Nat) : List UInt8 := (L.drop (256 * i)).take 256
theorem secs_ok {L : List UInt8} {N : Nat} (hL : L.length = 256 * N) : SOk N (secs L) := fun i hi => by
  unfold secs
  rw [List.length_take, List.length_drop, hL]
  omega
theorem flat_secs (L : List UInt8) (N : Nat) : flat N (secs L) = L.take (256 * N) := by
  induction N with
  | zero => simp [flat]
  | succ N ih =>
    simp only [flat, ih]
    unfold secs
    rw [show 256 * (N + 1) = 256 * N + 256 from by omega, List.take_add]
theorem flat_secs_all {L : List UInt8} {N : Nat} (hL : L.length = 256 * N) : flat N (secs L) = L := by rw [flat_secs, ← hL, List.take_length]
theorem secs_flat {S : Nat → List UInt8} {N : Nat} (h : SOk N S) (i : Nat) (hi : i < N) : secs (flat N S) i = S i := flat_sec h hi

set_option maxRecDepth 100000 in
set_option maxHeartbeats 1000000 in
theorem of_any (w : World) (SS : Nat → Prop) (A : Option Addr) (N cap : Nat) (L : List UInt8) (hs : Src w SS A (256 * N) (bcs L)) (hS : ∀ b, SS b → b < w.heap.size) (hcap : 256 * N ≤ cap) (hcm : cap ≤ maxLen) (n1 : 1 ≤ N) (n2 : N ≤ 16384) :
    Calls Try.prog 9 #[.slice A (256 * N) cap] w fun e w' => ∃ p, e = .returned (.tuple #[.pointer (some ⟨p, 0, none⟩), .int .i64 0]) ∧ Dk w' w.heap.size w'.heap.size p N (secs L) (fun _ => none) ∧ Below w.heap.size w w' := by
  obtain ⟨b, o, rfl, hb, hcell⟩ := hs.lies (by omega)
  have hL : L.length = 256 * N := by have := hs.len; rw [bcs_len] at this; exact this
  have HSP := Lib.hid ((callsIn_wide (n := 3)).1 (split_in 3 (by omega) w b o N cap L hL hcap hcm n2 (hS b hb) (fun j u hj => by
    have : j < 256 * N := by have := (List.getElem?_eq_some_iff.1 hj).1; rw [bcs_len, hL] at this; exact this
    exact (hcell j this).trans hj)))
  have HOK := Lib.hid (secs_ok hL)
  have HFL := Lib.hid (flat_secs_all hL)
  have hq : ((256 * N : Nat) : Int).tdiv 256 = (N : Int) := by rw [Int.tdiv_eq_ediv_of_nonneg (by omega)]; omega
  have hr : ((256 * N : Nat) : Int).tmod 256 = 0 := by rw [Int.tmod_eq_emod_of_nonneg (by omega)]; omega
  have hw : IntKind.i64.wrap (N : Int) = (N : Int) := IntWalk.i64_in _ (by omega)
  have h0 : ¬ ((N : Int) < 1) := by omega
  have h1 : ¬ ((16384 : Int) < (N : Int)) := by omega
  clear hs hcell hL
  go_enter Try.func9, Try.ntmps9
  go_wp2_with (go_at_call 32; go_must (refine HSP.out.mono ?_; rintro e2 w2 ⟨v2, rfl, ho2, hb2⟩))
  obtain ⟨hl2, h2 | ⟨g2, cap2, cur2, rfl, hg2, hh2, hnc2, hcm2, hcs2, ht2⟩⟩ := ho2
  · have := h2.2; omega
  refine (made_any w2 w.heap.size g2 N cap2 cur2 (secs L) hh2 hg2 hcs2 hnc2 hcm2 (by rw [HFL.out, Nat.mul_comm]; exact ht2) n1 n2 HOK.out).mono ?_
  rintro e3 w3 ⟨p, rfl, hd3, hb3⟩
  have HD := Lib.hid hd3
  have HB := Lib.hid (hb2.trans (hb3.mono hb2.size))
  clear hd3 hb3 hh2 hcs2 ht2
  go_wp2
  go_ret2
  exact ⟨p, rfl, HD.out, HB.out⟩
set_option maxHeartbeats 1000000 in
theorem of_bad (w : World) (A : Option Addr) (n cap : Nat) (hn : n < 256 ∨ (256 ≤ n ∧ n < 512 ∧ n ≠ 256)) : Calls Try.prog 9 #[.slice A n cap] w fun e w' => e = .returned (.tuple #[.pointer none, .int .i64 2]) ∧ w' = w := by
  have hq : (n : Int).tdiv 256 = ((n / 256 : Nat) : Int) := by rw [Int.tdiv_eq_ediv_of_nonneg (by omega)]; omega
  have hr : (n : Int).tmod 256 = ((n % 256 : Nat) : Int) := by rw [Int.tmod_eq_emod_of_nonneg (by omega)]; omega
  have hw : IntKind.i64.wrap ((n / 256 : Nat) : Int) = ((n / 256 : Nat) : Int) := IntWalk.i64_in _ (by omega)
  rcases hn with hn | ⟨hn, hn2, hn3⟩
  · have e0 : n / 256 = 0 := by omega
    rw [e0] at hq hw
    go_enter Try.func9, Try.ntmps9
    go_wp2
    go_ret2
    exact ⟨rfl, rfl⟩
  · have e1 : n / 256 = 1 := by omega
    rw [e1] at hq hw
    have hr2 : ((n % 256 : Nat) : Int) ≠ 0 := by omega
    have hr3 : (((n % 256 : Nat) : Int) == 0) = false := by simp; omega
    generalize n % 256 = r at *
    go_enter Try.func9, Try.ntmps9
    go_wp2
    go_ret2
    exact ⟨rfl, rfl⟩
end Go.Proofs.Ytfhjcfoecmbhkaa
