/- The reading functions of package octet: a reader is a block of four cells. No statement is proved here. -/
import Derived.Test.YtkglicidjdifkaaOB
import Derived.Deep.QuietTactic
import Derived.BigQuiet
namespace Go.Proofs.Ytkglicidjdifkaa
open Go.RowKit

/-- The reader's block. -/
def RdB (w : World) (g : Nat) (A : Option Addr) (n c k e : Nat) : Prop := w.heap[g]? = some (.cells #[.bool true, .slice A n c, .int .i64 k, .int .i64 e] 90 (0, 0))

section
variable {w : World} {g : Nat} {A : Option Addr} {n c k e : Nat}
theorem RdB.c0 (h : RdB w g A n c k e) : w.cell? ⟨g, 0, none⟩ = some (.bool true) := by rw [cell_of_row w g 0 _ _ _ h]; rfl
theorem RdB.c1 (h : RdB w g A n c k e) : w.cell? ⟨g, 1, none⟩ = some (.slice A n c) := by rw [cell_of_row w g 1 _ _ _ h]; rfl
theorem RdB.c2 (h : RdB w g A n c k e) : w.cell? ⟨g, 2, none⟩ = some (.int .i64 k) := by rw [cell_of_row w g 2 _ _ _ h]; rfl
theorem RdB.c3 (h : RdB w g A n c k e) : w.cell? ⟨g, 3, none⟩ = some (.int .i64 e) := by rw [cell_of_row w g 3 _ _ _ h]; rfl
theorem RdB.fr (h : RdB w g A n c k e) (j : Nat) : w.frozen? ⟨g, j, none⟩ = false := frozen_of_row w g j _ _ h
theorem RdB.lt (h : RdB w g A n c k e) : g < w.heap.size := by
  rcases Nat.lt_or_ge g w.heap.size with hlt | hge
  · exact hlt
  · unfold RdB at h; rw [Array.getElem?_eq_none hge] at h; cases h
theorem RdB.drewN (h : RdB w g A n c k e) (j : Nat) : RdB (w.drewN j) g A n c k e := h
end

theorem err_any {w : World} {g : Nat} {A : Option Addr} {n c k e : Nat} (h : RdB w g A n c k e) :
    Calls Try.prog 44 #[.pointer (some ⟨g, 0, none⟩)] w fun e' w' => e' = .returned (.int .i64 e) ∧ w = w' := by
  have h0 := h.c0
  have h3 := h.c3
  go_enter Try.func44, Try.ntmps44
  go_wp2
  go_ret
  exact ⟨rfl, rfl⟩
theorem err_nil (w : World) : Calls Try.prog 44 #[.pointer none] w fun e' w' => e' = .returned (.int .i64 1) ∧ w = w' := by
  go_enter Try.func44, Try.ntmps44
  go_wp2
  go_ret
  exact ⟨rfl, rfl⟩

theorem left_any {w : World} {g : Nat} {A : Option Addr} {n c k e : Nat} (h : RdB w g A n c k e) (hk : k ≤ n) (hn : n ≤ 1000000000) :
    Calls Try.prog 46 #[.pointer (some ⟨g, 0, none⟩)] w fun e' w' => e' = .returned (.int .i64 ((n - k : Nat) : Int)) ∧ ∃ q, w' = w.drewN q := by
  have h1 := h.c1
  have h2 := h.c2
  go_enter Try.func46, Try.ntmps46
  go_wp2
  go_quiet (fail)
  go_wp2
  go_ret
  refine ⟨ret_int ?_, _, rfl⟩
  omega
theorem left_nil (w : World) : Calls Try.prog 46 #[.pointer none] w fun e' w' => e' = .returned (.int .i64 0) ∧ w = w' := by
  go_enter Try.func46, Try.ntmps46
  go_wp2
  go_ret
  exact ⟨rfl, rfl⟩

/-- How many bytes the number ahead has. -/
def aheadL : List UInt8 → Nat
  | [] => 1
  | b :: _ => lead b

theorem lz8 (b : UInt8) (w : World) : Calls Try.prog 57 #[.int .u8 (255 - (b.toNat : Int))] w fun e w' => e = .returned (.int .i64 ((lead b : Int) - 1)) ∧ w' = w := by
  have hb : b.toNat < 256 := b.toNat_lt
  have h1 := lead_pos b
  have h9 := lead_le b
  have h8 := Lib.bitLen_le8 ⟨255 - b.toNat, by omega⟩
  refine (Try.bits_LeadingZeros8 (255 - (b.toNat : Int)) w (by omega) (by omega)).mono fun e w' h => ⟨h.1.trans (ret_int ?_), h.2⟩
  rw [show (255 - (b.toNat : Int)).toNat = 255 - b.toNat from by omega]
  unfold lead at *
  simp only at h8
  omega

theorem not_u8 (y : UInt8) : bits .xor .u8 (if IntKind.u8.signed = true then -1 else IntKind.u8.max) (y.toNat : Int) = 255 - (y.toNat : Int) := by
  have hy : y.toNat < 256 := y.toNat_lt
  have h := u8_xor_nat 255 y.toNat (by omega) hy
  have h2 : ∀ b : Fin 256, 255 ^^^ b.val = 255 - b.val := by decide +kernel
  have h3 := h2 ⟨y.toNat, hy⟩
  simp only at h3
  rw [h3] at h
  show bits .xor .u8 ((255 : Nat) : Int) _ = _
  rw [h]
  omega
theorem lz8' (b : UInt8) (w : World) : Calls Try.prog 57 #[.int .u8 (bits .xor .u8 (if IntKind.u8.signed = true then -1 else IntKind.u8.max) (b.toNat : Int))] w fun e w' => e = .returned (.int .i64 ((lead b : Int) - 1)) ∧ w' = w := by
  rw [not_u8]
  exact lz8 b w

set_option maxHeartbeats 400000 in
theorem ahead_any {w : World} {g : Nat} {A : Option Addr} {n c k e : Nat} {S : Nat → Prop} {l : List UInt8} (h : RdB w g A n c k e) (hs : Src w S A n (bcs l)) (hk : k ≤ n) (hn : n ≤ 1000000000) :
    Calls Try.prog 53 #[.pointer (some ⟨g, 0, none⟩)] w fun e' w' => e' = .returned (.int .u64 (aheadL (l.drop k))) ∧ ∃ q, w' = w.drewN q := by
  have hl := src_len hs
  by_cases h0 : k = n
  · have ha : aheadL (l.drop k) = 1 := by rw [List.drop_of_length_le (by omega)]; rfl
    rw [ha]
    have hz : ((n - k : Nat) : Int) = 0 := by omega
    have CL := Lib.hid (left_any h hk hn)
    rw [hz] at CL
    clear hl ha hz h0
    go_enter Try.func53, Try.ntmps53
    go_wp2_with (go_at_call 46; refine CL.out.mono ?_; rintro e w' ⟨rfl, q, rfl⟩)
    go_ret
    exact ⟨rfl, _, rfl⟩
  · obtain ⟨b, o, rfl, _, hc⟩ := hs.lies (by omega)
    have hck := hc k (by omega)
    rw [bcs_get, List.getElem?_eq_getElem (by omega)] at hck
    have ha : aheadL (l.drop k) = lead l[k] := by rw [List.drop_eq_getElem_cons (by omega)]; rfl
    rw [ha]
    generalize l[k] = y at *
    have hcell : w.cell? ⟨b, o + k, none⟩ = some (.int .u8 (y.toNat : Int)) := hck
    have CL := Lib.hid (left_any h hk hn)
    have hz : (((n - k : Nat) : Int) == 0) = false := by simp; omega
    have hkn : (k : Int) < (n : Int) := by omega
    have hy : y.toNat < 256 := y.toNat_lt
    have y1 := lead_pos y
    have y9 := lead_le y
    have h1 := h.c1
    have h2 := h.c2
    clear hl ha h0 hc hck hs h
    go_enter Try.func53, Try.ntmps53
    go_wp2_with (go_at_call 46; refine CL.out.mono ?_; rintro e w' ⟨rfl, q, rfl⟩)
    have h1' : (w.drewN q).cell? ⟨g, 1, none⟩ = some (.slice (some ⟨b, o, none⟩) n c) := h1
    have h2' : (w.drewN q).cell? ⟨g, 2, none⟩ = some (.int .i64 k) := h2
    have h3' : (w.drewN q).cell? ⟨b, o + k, none⟩ = some (.int .u8 (y.toNat : Int)) := hcell
    obtain ⟨w2, hw2⟩ : ∃ w2, w2 = w.drewN q := ⟨_, rfl⟩
    rw [← hw2] at h1' h2' h3' ⊢
    have HW := Lib.hid hw2
    clear hw2 h1 h2 hcell CL
    go_quiet ((go_at_call 57; exact Calls.quiet_of_same (lz8' y _)))
    go_wp2
    all_goals
      go_ret
      exact ⟨rfl, _, by rw [HW.out, World.drewN_drewN]⟩

/-- What taking m bytes gives: none and an error, or a piece of the reader's memory. -/
def TakeGives (w : World) (g : Nat) (S : Nat → Prop) (A : Option Addr) (n c k e : Nat) (l : List UInt8) (m : Nat) (e' : Ending) (w' : World) : Prop :=
  w.grownBy w' (some g) ∧
  ((e ≠ 0 ∧ e' = .returned (.tuple #[.slice none 0 0, .bool false]) ∧ RdB w' g A n c k e) ∨
   (e = 0 ∧ n - k < m ∧ e' = .returned (.tuple #[.slice none 0 0, .bool false]) ∧ RdB w' g A n c k 5) ∨
   (e = 0 ∧ m ≤ n - k ∧ RdB w' g A n c (k + m) 0 ∧ ∃ A' c', e' = .returned (.tuple #[.slice A' m c', .bool true]) ∧ m ≤ c' ∧ c' ≤ maxLen ∧ Src w' S A' m (bcs ((l.drop k).take m))))

theorem RdB.set2 {w : World} {g : Nat} {A : Option Addr} {n c k e : Nat} (h : RdB w g A n c k e) (k' : Nat) : RdB (w.setCell ⟨g, 2, none⟩ (.int .i64 k')) g A n c k' e := by
  unfold RdB at h ⊢
  simp [World.setCell, Array.getElem?_modify, h]
theorem RdB.set3 {w : World} {g : Nat} {A : Option Addr} {n c k e : Nat} (h : RdB w g A n c k e) (e' : Nat) : RdB (w.setCell ⟨g, 3, none⟩ (.int .i64 e')) g A n c k e' := by
  unfold RdB at h ⊢
  simp [World.setCell, Array.getElem?_modify, h]
theorem grownBy_setCell {a w : World} {g : Nat} (h : a.grownBy w (some g)) (j : Nat) (u : Value) : a.grownBy (w.setCell ⟨g, j, none⟩ u) (some g) :=
  ⟨h.os, h.tape, h.output, by simpa [World.setCell] using h.size, fun i hi hne => (Below.heap_setCell w ⟨g, j, none⟩ u i (fun e => hne (by rw [e]))).trans (h.block i hi hne)⟩

set_option maxHeartbeats 400000 in
theorem take_any {w : World} {g : Nat} {A : Option Addr} {n c k e : Nat} {S : Nat → Prop} {l : List UInt8} (h : RdB w g A n c k e) (hs : Src w S A n (bcs l)) (hS : ∀ b, S b → b < w.heap.size ∧ b ≠ g)
    (hk : k ≤ n) (hn : n ≤ 1000000000) (hnc : n ≤ c) (hc : c ≤ maxLen) (m : Nat) (hm : m < 18446744073709551616) :
    Calls Try.prog 52 #[.pointer (some ⟨g, 0, none⟩), .int .u64 m] w (TakeGives w g S A n c k e l m) := by
  have CE := Lib.hid (err_any h)
  have CL := Lib.hid (left_any h hk hn)
  have h1 := h.c1
  have h2 := h.c2
  have h3 := h.c3
  have f2 := h.fr 2
  have f3 := h.fr 3
  have H := Lib.hid h
  by_cases h0 : e = 0
  · subst h0
    clear h
    by_cases hlt : n - k < m
    · go_enter Try.func52, Try.ntmps52
      go_wp2_with (first | (go_at_call 44; refine CE.out.mono ?_; rintro e w' ⟨rfl, rfl⟩) | (go_at_call 46; refine CL.out.mono ?_; rintro e w' ⟨rfl, q, rfl⟩))
      go_ret2
      exact ⟨grownBy_setCell (grownBy_drewN (World.grownBy.refl w _) q) 3 _, .inr (.inl ⟨rfl, hlt, rfl, (H.out.drewN q).set3 5⟩)⟩
    · have hmk : m ≤ n - k := by omega
      have hd : decide (((n - k : Nat) : Int) < (m : Int)) = false := by simp; omega
      have hck : (k : Int) ≤ (c : Int) := by omega
      have HQ : Hid (Src w S (if c = k then A else A.map (·.add k)) m (bcs ((l.drop k).take m))) := by
        have := (hs.drop_ k hk hnc).take_ m hmk
        unfold bcs at this ⊢
        rw [List.map_take, List.map_drop]
        exact this
      go_enter Try.func52, Try.ntmps52
      go_wp2_with (first | (go_at_call 44; refine CE.out.mono ?_; rintro e w' ⟨rfl, rfl⟩) | (go_at_call 46; refine CL.out.mono ?_; rintro e w' ⟨rfl, q, rfl⟩))
      go_quiet (fail)
      go_wp2
      all_goals
        go_ret2
        have hg : w.grownBy ((w.drewN (q + nq)).setCell ⟨g, 2, none⟩ (.int .i64 ((k : Int) + (m : Int)))) (some g) := grownBy_setCell (grownBy_drewN (World.grownBy.refl w _) _) 2 _
        have hq := HQ.out
        simp only [h, if_true, if_false] at hq
        refine ⟨hg, .inr (.inr ⟨rfl, hmk, ?_, _, _, rfl, by omega, by omega, hq.grown hg (fun b hb => ⟨(hS b hb).1, fun e => (hS b hb).2 (by injection e)⟩) (fun _ hb => hb)⟩)⟩
        have := (H.out.drewN (q + nq)).set2 (k + m)
        rw [Int.natCast_add] at this
        first | exact this | (rw [h] at this; exact this)
  · have he : (((e : Nat) : Int) == 0) = false := by simp; omega
    have he' : (((e : Nat) : Int) != 0) = true := by simp; omega
    clear h
    go_enter Try.func52, Try.ntmps52
    go_wp2_with (first | (go_at_call 44; refine CE.out.mono ?_; rintro e w' ⟨rfl, rfl⟩))
    go_ret2
    exact ⟨World.grownBy.refl w _, .inl ⟨h0, rfl, H.out⟩⟩
end Go.Proofs.Ytkglicidjdifkaa
