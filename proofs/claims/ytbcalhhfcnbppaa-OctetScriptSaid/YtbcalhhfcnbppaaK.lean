/- The document's own reader, further: blocks, words, digests and the end. No statement is proved here. -/
import Derived.Test.YtbcalhhfcnbppaaJ
import Derived.Test.YtbcalhhfcnbppaaO
import Derived.Laws.CopyRow
namespace Go.Proofs.Ytbcalhhfcnbppaa
open Go.RowKit

theorem numS_err (l : List UInt8) (k e : Nat) (h : (numS l k e).2.2 ≠ 0) : (numS l k e).2.1 = k := by
  unfold numS at h ⊢
  split at h
  · rename_i he
    rw [if_pos he]
    simp only at h ⊢
    cases hd : l.drop k with
    | nil => rfl
    | cons b t =>
      rw [hd] at h
      rw [decN_cons] at h ⊢
      split at h
      · rename_i h1; rw [if_pos h1]; rfl
      · rename_i h1
        rw [if_neg h1]
        split at h
        · rename_i h2; rw [if_pos h2]; rfl
        · exact absurd rfl h
  · rename_i he
    rw [if_neg he]
theorem blkS_as (l : List UInt8) (k e : Nat) : blkS l k e = if (numS l k e).2.2 = 0 ∧ (numS l k e).1 ≤ l.length - (numS l k e).2.1 then takeS l (numS l k e).2.1 0 (numS l k e).1 else ([], k, if (numS l k e).2.2 = 0 then 5 else (numS l k e).2.2) := by
  unfold blkS
  by_cases he : e = 0
  · subst he
    rw [if_pos rfl]
    by_cases h : (numS l k 0).2.2 = 0 ∧ (numS l k 0).1 ≤ l.length - (numS l k 0).2.1
    · rw [if_pos h, if_pos h, h.1]
    · rw [if_neg h, if_neg h]
      congr 2
      unfold takeS
      by_cases h0 : (numS l k 0).2.2 = 0
      · rw [if_neg (by omega), if_pos (by omega), if_pos h0]
      · rw [if_pos h0, if_neg h0]
  · have hn : numS l k e = (0, k, e) := by unfold numS; rw [if_neg he]
    rw [if_neg he, hn]
    simp only
    rw [if_neg (by omega), if_neg he]

theorem Rf.end_ {w : World} {lo hi g : Nat} {l : List UInt8} {k e : Nat} (h : Rf w lo hi g l k e) (hl : l.length ≤ 1000000000) :
    Calls Try.prog 33 #[.pointer (some ⟨g, 0, none⟩)] w fun e' w' => e' = .returned (.int .i64 ((if e = 0 then if k < l.length then 4 else 0 else e : Nat) : Int)) ∧ w' = w := by
  obtain ⟨A, c, hb, hs, h1, h2⟩ := h.ex
  have hk := h.k_le
  have c0 := hb.c0
  have c1 := hb.c1
  clear h hs hb
  by_cases he : e = 0
  · subst he
    by_cases hlt : k < l.length
    · rw [if_pos rfl, if_pos hlt]
      have h0 : (0 : Int) < ((l.length - k : Nat) : Int) := by omega
      generalize l.length - k = q at *
      go_enter Try.func33, Try.ntmps33
      go_wp2
      go_ret
      exact ⟨rfl, rfl⟩
    · rw [if_pos rfl, if_neg hlt]
      have h0 : l.length - k = 0 := by omega
      rw [h0] at c0
      go_enter Try.func33, Try.ntmps33
      go_wp2
      go_ret
      exact ⟨rfl, rfl⟩
  · rw [if_neg he]
    have hne : (((e : Nat) : Int) != 0) = true := by simp; omega
    go_enter Try.func33, Try.ntmps33
    go_wp2
    go_ret
    exact ⟨rfl, rfl⟩
end Go.Proofs.Ytbcalhhfcnbppaa
