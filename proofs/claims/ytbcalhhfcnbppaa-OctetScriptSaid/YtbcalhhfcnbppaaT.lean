/- The document's own reader: a block. No statement is proved here. -/
import Derived.Test.YtbcalhhfcnbppaaK
namespace Go.Proofs.Ytbcalhhfcnbppaa
open Go.RowKit
set_option maxHeartbeats 2000000 in
theorem Rf.block {w : World} {lo hi g : Nat} {l : List UInt8} {k e : Nat} (h : Rf w lo hi g l k e) (hl : l.length ≤ 1000000000) :
    Calls Try.prog 28 #[.pointer (some ⟨g, 0, none⟩)] w (RfBytes w lo hi g l (blkS l k e).1 (blkS l k e).2.1 (blkS l k e).2.2) := by
  obtain ⟨A, c, hb, hs, h1, h2⟩ := h.ex
  have hk := h.k_le
  have hhi := h.hi_le
  have c0 := hb.c0
  have CN := Lib.hid (h.num hl)
  have hx := numS_lt l k e
  have hse := Lib.hid (numS_err l k e)
  have HB := Lib.hid (blkS_as l k e)
  have HH := Lib.hid h
  have HS := Lib.hid hs
  clear h hb hs
  generalize numS l k e = r at *
  generalize blkS l k e = R at *
  obtain ⟨x, k1, e1⟩ := r
  simp only at CN HB hx hse
  by_cases he : e1 = 0
  · subst he
    by_cases hle : x ≤ l.length - k1
    · have HO : Hid (R = takeS l k1 0 x) := by have := HB.out; rw [if_pos ⟨rfl, hle⟩] at this; exact this
      have hxl : ¬ (((l.length - k1 : Nat) : Int) < (x : Int)) := by omega
      have hx9 : (x : Int) < 9223372036854775808 := by omega
      have CT : Hid (∀ (w1 : World) (h1 : Rf w1 lo hi g l k1 0), Calls Try.prog 31 #[.pointer (some ⟨g, 0, none⟩), .int .i64 x] w1 (RfBytes w1 lo hi g l (takeS l k1 0 x).1 (takeS l k1 0 x).2.1 (takeS l k1 0 x).2.2)) := fun w1 h1 => h1.takeN hl x hx9
      generalize takeS l k1 0 x = t at *
      obtain ⟨out, k2, e2⟩ := t
      simp only at CT
      clear HB
      have hlen : ((l.length - k1 : Nat) : Int) ≤ 1000000000 := by omega
      have hx1 : (x : Int) ≤ 1000000000 := by omega
      clear hx hx9
      generalize hq : l.length - k1 = q at *
      go_enter Try.func28, Try.ntmps28
      go_wp2_with fail
      refine CN.out.mono ?_; rintro e1 w1 ⟨rfl, hg1, hr1⟩; obtain ⟨A1, c1p, hb1, _⟩ := hr1.ex; rw [hq] at hb1; have d0 := hb1.c0; have d1 := hb1.c1; have HG1 := Lib.hid hg1; have HR1 := Lib.hid hr1; clear hg1 hr1 hb1
      go_wp2_with (first | (go_at_call 31; refine (CT.out _ HR1.out).mono ?_; rintro e' w2 ⟨v, rfl, ho, hg2, hr2⟩))
      go_ret
      rw [HO.out]
      exact ⟨v, rfl, own_base ho HG1.out.size, grownBy_trans HG1.out hg2, hr2⟩
    · have HO : Hid (R = ([], k, 5)) := by have := HB.out; rw [if_neg (by omega), if_pos rfl] at this; exact this
      have hxl : (((l.length - k1 : Nat) : Int) < (x : Int)) := by omega
      have hlen : ((l.length - k1 : Nat) : Int) ≤ 1000000000 := by omega
      clear HB
      generalize hq : l.length - k1 = q at *
      go_enter Try.func28, Try.ntmps28
      go_wp2_with (first | (go_at_call 27; refine CN.out.mono ?_; rintro e' w1 ⟨rfl, hg1, hr1⟩; obtain ⟨A1, c1', hb1, _⟩ := hr1.ex; rw [hq] at hb1; have d0 := hb1.c0; have d1 := hb1.c1; have f0 := hb1.fr 0; have f1 := hb1.fr 1; have HB1 := Lib.hid hb1; have HG1 := Lib.hid hg1; clear hg1 hr1 hb1))
      go_ret
      rw [HO.out]
      have hg := fun u v => grownBy_setCell (grownBy_setCell HG1.out 1 u) 0 v
      exact ⟨_, rfl, World.ownsRow_nil _ _ _ _, hg _ _, HH.out.step HS.out h1 h2 (hg _ _) ((HB1.out.set1 5).set0 _ _ _) hk⟩
  · have HO : Hid (R = ([], k, e1)) := by have := HB.out; rw [if_neg (by omega), if_neg he] at this; exact this
    have hkk := hse.out he
    subst hkk
    have hne : (((e1 : Nat) : Int) == 0) = false := by simp; omega
    have hne' : (((e1 : Nat) : Int) != 0) = true := by simp; omega
    clear HB
    go_enter Try.func28, Try.ntmps28
    go_wp2_with (first | (go_at_call 27; refine CN.out.mono ?_; rintro e' w1 ⟨rfl, hg1, hr1⟩; obtain ⟨A1, c1', hb1, _⟩ := hr1.ex; have d0 := hb1.c0; have d1 := hb1.c1; have HG1 := Lib.hid hg1; have HR1 := Lib.hid hr1; clear hg1 hr1 hb1))
    go_ret
    rw [HO.out]
    exact ⟨_, rfl, World.ownsRow_nil _ _ _ _, HG1.out, HR1.out⟩

end Go.Proofs.Ytbcalhhfcnbppaa
