/- What a reader's calls return, on its state: blocks, words, digests, the end; and of no reader. No statement is proved here. -/
import Derived.Test.YtbcalhhfcnbppaaE
namespace Go.Proofs.Ytbcalhhfcnbppaa
open Go.RowKit

/-- Reading a block, on a reader's state. -/
def blkS (l : List UInt8) (k e : Nat) : List UInt8 × Nat × Nat :=
  if e = 0 then
    if (numS l k 0).2.2 = 0 ∧ (numS l k 0).1 ≤ l.length - (numS l k 0).2.1 then takeS l (numS l k 0).2.1 (numS l k 0).2.2 (numS l k 0).1
    else ([], k, (takeS l (numS l k 0).2.1 (numS l k 0).2.2 (numS l k 0).1).2.2)
  else ([], k, e)

theorem decN_lt (l : List UInt8) : (decN l).1 < 18446744073709551616 := by
  by_cases h : (decN l).2.2 = 0
  · have := enc_dec l (decN l).1 (decN l).2.1 (by rw [← h])
    omega
  · cases l with
    | nil => simp [decN]
    | cons y t =>
      rw [decN_cons] at h ⊢
      split
      · simp
      · split
        · simp
        · rename_i h1 h2
          rw [if_neg h1, if_neg h2] at h
          exact absurd rfl h
theorem numS_lt (l : List UInt8) (k e : Nat) : (numS l k e).1 < 18446744073709551616 := by
  unfold numS
  split
  · exact decN_lt _
  · simp
theorem takeS_le (l : List UInt8) (k e m : Nat) (hk : k ≤ l.length) : (takeS l k e m).2.1 ≤ l.length := by
  unfold takeS
  split
  · exact hk
  · split
    · exact hk
    · simp; omega

/-- The reader's position is set back. -/
theorem Rdr.set_at {w : World} {lo hi g : Nat} {l : List UInt8} {k e : Nat} (h : Rdr w lo hi g l k e) (k' : Nat) (hk : k' ≤ l.length) : Rdr (w.setCell ⟨g, 2, none⟩ (.int .i64 k')) lo hi g l k' e := by
  obtain ⟨A, c, hb, hs, h1, h2⟩ := h.ex
  exact h.step hs h1 h2 (grownBy_setCell (World.grownBy.refl w _) 2 _) (hb.set2 k') hk

set_option maxHeartbeats 400000 in
theorem Rdr.block {w : World} {lo hi g : Nat} {l : List UInt8} {k e : Nat} (h : Rdr w lo hi g l k e) (hl : l.length ≤ 1000000000) :
    Calls Try.prog 12 #[.pointer (some ⟨g, 0, none⟩)] w (RdBytes w lo hi g l (blkS l k e).1 (blkS l k e).2.1 (blkS l k e).2.2) := by
  have CE := Lib.hid h.err
  have hk := h.k_le
  by_cases he : e = 0
  · subst he
    have hat : w.cell? ⟨g, 2, none⟩ = some (.int .i64 k) := by obtain ⟨A, c, hb, _⟩ := h.ex; exact hb.c2
    have CN := Lib.hid (h.num hl)
    have hx := numS_lt l k 0
    have HB : Hid (blkS l k 0 = if (numS l k 0).2.2 = 0 ∧ (numS l k 0).1 ≤ l.length - (numS l k 0).2.1 then takeS l (numS l k 0).2.1 (numS l k 0).2.2 (numS l k 0).1
      else ([], k, (takeS l (numS l k 0).2.1 (numS l k 0).2.2 (numS l k 0).1).2.2)) := by unfold blkS; rw [if_pos rfl]; exact rfl
    generalize numS l k 0 = r at *
    obtain ⟨x, k1, e1⟩ := r
    simp only at CN HB hx
    have CT := Lib.hid (fun (w1 : World) (h1 : Rdr w1 lo hi g l k1 e1) => h1.take hl x hx)
    generalize blkS l k 0 = R at *
    have hlen := takeS_len l k1 e1 x
    generalize takeS l k1 e1 x = t at *
    obtain ⟨out, k2, e2⟩ := t
    simp only at CT HB hlen
    clear h
    by_cases hok : e1 = 0 ∧ x ≤ l.length - k1
    · have HO : Hid (R = (out, k2, e2)) := by have := HB.out; rw [if_pos hok] at this; exact this
      rw [decide_eq_true hok] at CT
      clear HB hok
      go_enter Try.func12, Try.ntmps12
      go_wp2_with (first | (go_at_call 17; refine CE.out.mono ?_; rintro e' w' ⟨rfl, rfl⟩) | (go_at_call 10; refine CN.out.mono ?_; rintro e' w1 ⟨rfl, hg1, hr1⟩; have HG1 := Lib.hid hg1; have HR1 := Lib.hid hr1; clear hg1 hr1) | (go_at_call 35; refine (CT.out _ HR1.out).mono ?_; rintro e' w2 ⟨hg2, hr2, A', c', rfl, hc1, hc2, hs2⟩; have HG2 := Lib.hid hg2; have HR2 := Lib.hid hr2; have hw2 := hr2.hi_le; clear hg2 hr2))
      go_wp2_with (go_at_call 34; refine (clone_any w2 _ A' _ c' out hs2 (fun b hb => by omega) (by omega)).mono ?_)
      rintro e3 w3 ⟨v, rfl, ho, hb⟩
      go_wp2
      go_ret
      rw [HO.out]
      have hg := grownBy_trans HG1.out HG2.out
      exact ⟨v, rfl, own_base ho hg.size, grownBy_trans hg (grownBy_of_below hb _), HR2.out.below hb hw2⟩
    · have HO : Hid (R = ([], k, e2)) := by have := HB.out; rw [if_neg hok] at this; exact this
      rw [decide_eq_false hok] at CT
      clear HB hok
      go_enter Try.func12, Try.ntmps12
      go_wp2_with (first | (go_at_call 17; refine CE.out.mono ?_; rintro e' w' ⟨rfl, rfl⟩) | (go_at_call 10; refine CN.out.mono ?_; rintro e' w1 ⟨rfl, hg1, hr1⟩; have HG1 := Lib.hid hg1; have HR1 := Lib.hid hr1; clear hg1 hr1) | (go_at_call 35; refine (CT.out _ HR1.out).mono ?_; rintro e' w2 ⟨hg2, hr2, A', c', rfl, hc1, hc2, hs2⟩; have HG2 := Lib.hid hg2; have HR2 := Lib.hid hr2; obtain ⟨A3, c3, hb3, _⟩ := hr2.ex; have c2 := hb3.c2; have f2 := hb3.fr 2; clear hg2 hr2 hb3))
      go_ret
      rw [HO.out]
      have hg := grownBy_trans HG1.out HG2.out
      exact ⟨_, rfl, World.ownsRow_nil _ _ _ _, grownBy_setCell hg 2 _, HR2.out.set_at k hk⟩
  · have hb : blkS l k e = ([], k, e) := by unfold blkS; rw [if_neg he]
    rw [hb]
    have hne : (((e : Nat) : Int) != 0) = true := by simp; omega
    have H := Lib.hid h
    clear h hb
    go_enter Try.func12, Try.ntmps12
    go_wp2_with (go_at_call 17; refine CE.out.mono ?_; rintro e' w' ⟨rfl, rfl⟩)
    go_ret
    exact ⟨_, rfl, World.ownsRow_nil _ _ _ _, World.grownBy.refl w _, H.out⟩

theorem Rdr.end_ {w : World} {lo hi g : Nat} {l : List UInt8} {k e : Nat} (h : Rdr w lo hi g l k e) (hl : l.length ≤ 1000000000) :
    Calls Try.prog 14 #[.pointer (some ⟨g, 0, none⟩)] w fun e' w' => e' = .returned (.int .i64 ((if e = 0 then if k < l.length then 4 else 0 else e : Nat) : Int)) ∧ ∃ q, w' = w.drewN q := by
  have CE := Lib.hid h.err
  have CL := Lib.hid (h.left hl)
  have hk := h.k_le
  clear h
  by_cases he : e = 0
  · subst he
    by_cases hlt : k < l.length
    · rw [if_pos rfl, if_pos hlt]
      have h0 : (0 : Int) < ((l.length - k : Nat) : Int) := by omega
      go_enter Try.func14, Try.ntmps14
      go_wp2_with (first | (go_at_call 17; refine CE.out.mono ?_; rintro e' w' ⟨rfl, rfl⟩) | (go_at_call 13; refine CL.out.mono ?_; rintro e' w' ⟨rfl, q, rfl⟩))
      go_ret
      exact ⟨rfl, _, rfl⟩
    · rw [if_pos rfl, if_neg hlt]
      have h0 : ((l.length - k : Nat) : Int) ≤ 0 := by omega
      go_enter Try.func14, Try.ntmps14
      go_wp2_with (first | (go_at_call 17; refine CE.out.mono ?_; rintro e' w' ⟨rfl, rfl⟩) | (go_at_call 13; refine CL.out.mono ?_; rintro e' w' ⟨rfl, q, rfl⟩))
      go_ret
      exact ⟨rfl, _, rfl⟩
  · rw [if_neg he]
    have hne : (((e : Nat) : Int) != 0) = true := by simp; omega
    go_enter Try.func14, Try.ntmps14
    go_wp2_with (go_at_call 17; refine CE.out.mono ?_; rintro e' w' ⟨rfl, rfl⟩)
    go_ret
    exact ⟨rfl, 0, rfl⟩
theorem end_nil (w : World) : Calls Try.prog 14 #[.pointer none] w fun e' w' => e' = .returned (.int .i64 1) ∧ w = w' := by
  go_enter Try.func14, Try.ntmps14
  go_wp2_with (go_at_call 17; refine (err_nil _).mono ?_; rintro e' w' ⟨rfl, rfl⟩)
  go_ret
  exact ⟨rfl, rfl⟩
end Go.Proofs.Ytbcalhhfcnbppaa
