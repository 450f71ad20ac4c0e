/- What is read of bytes, in plain words. No statement is proved here. -/
import Derived.Test.YtkglicidjdifkaaRH
namespace Go.Proofs.Ytkglicidjdifkaa
open Go.RowKit
set_option linter.unusedVariables false
set_option linter.unusedSimpArgs false
theorem encN_ne (n : Nat) : encN n ≠ [] := by intro h; have := encN_len n; rw [h] at this; have := sz_pos n; simp at *; omega
theorem headS_of (k : UInt8) (n : Nat) (r : List UInt8) (hk : k.toNat ≠ 0) (hn : n ≤ 8192) : headS (hdL k n ++ r) = (k.toNat, n, 1 + sz n, 0) := by
  have h10 : (hdL k n ++ r).take 10 = k :: (encN n ++ r.take (9 - sz n)) := by
    unfold hdL
    rw [List.cons_append, List.take_succ_cons, List.take_append, encN_len, List.take_of_length_le (by rw [encN_len]; exact sz_le n)]
  have hd := dec_enc n (by omega) (r.take (9 - sz n))
  unfold headS
  rw [h10]
  simp only [hd]
  rw [if_neg hk, if_neg (by simp), if_neg (by omega)]
theorem headS_ok {b : List UInt8} {kn n at_ : Nat} (h : headS b = (kn, n, at_, 0)) : ∃ k : UInt8, kn = k.toNat ∧ k.toNat ≠ 0 ∧ n ≤ 8192 ∧ at_ = 1 + sz n ∧ b.take at_ = hdL k n ∧ at_ ≤ b.length := by
  unfold headS at h
  cases hb : b with
  | nil => subst hb; simp at h
  | cons x t =>
    subst hb
    rw [List.take_succ_cons] at h
    simp only at h
    by_cases hx : x.toNat = 0
    · rw [if_pos hx] at h; simp at h
    rw [if_neg hx] at h
    by_cases he : (decN (t.take 9)).2.2 ≠ 0
    · rw [if_pos he] at h
      simp at h
      exact absurd h.2.2.2 he
    rw [if_neg he] at h
    by_cases hv : 8192 < (decN (t.take 9)).1
    · rw [if_pos hv] at h; simp at h
    rw [if_neg hv] at h
    simp only [Prod.mk.injEq, and_true] at h
    obtain ⟨h1, h2, h3⟩ := h
    have hd := enc_dec (t.take 9) (decN (t.take 9)).1 (decN (t.take 9)).2.1 (by
      have : (decN (t.take 9)).2.2 = 0 := by omega
      rw [← this])
    obtain ⟨e1, e2, e3, e4⟩ := hd
    have e5 : (encN (decN (t.take 9)).1).length = (decN (t.take 9)).2.1 := by rw [e1, List.length_take]; omega
    rw [encN_len, h2] at e5
    rw [h2] at e1 hv
    rw [← e5] at h3 e1 e2
    rw [List.length_take] at e2
    refine ⟨x, h1.symm, hx, by omega, h3.symm, ?_, by simp; omega⟩
    rw [← h3, Nat.add_comm, List.take_succ_cons]
    unfold hdL
    rw [e1, List.take_take, Nat.min_eq_left (sz_le n)]
theorem headS_fst_lt (b : List UInt8) : (headS b).1 < 256 := by
  unfold headS
  split
  · simp
  · rename_i x t _
    have := x.toNat_lt
    split
    · simp
    · split
      · simp
      · split
        · simp
        · exact this
/-- The record that is read, its data, and the error. -/
def readK (b : List UInt8) : UInt8 := UInt8.ofNat (headS b).1
def readD (b : List UInt8) : List UInt8 := (b.drop (headS b).2.2.1).take (headS b).2.1
def unbE (b : List UInt8) : Nat := if (headS b).2.2.2 ≠ 0 then (headS b).2.2.2 else if b.length - (headS b).2.2.1 < (headS b).2.1 + 8 then 5 else 0
def readE (ch b : List UInt8) : Nat := if unbE b ≠ 0 then unbE b else if (b.drop (sizeR (readD b).length - 8)).take 8 = (nextL ch (readK b) (readD b)).take 8 then 0 else 4
theorem unb_ok {b : List UInt8} (h : unbE b = 0) : okR (readK b) (readD b).length = true ∧ b.take (1 + sz (readD b).length) = hdL (readK b) (readD b).length ∧ sizeR (readD b).length ≤ b.length ∧
    headS b = ((readK b).toNat, (readD b).length, 1 + sz (readD b).length, 0) ∧ readD b = (b.drop (1 + sz (readD b).length)).take (readD b).length := by
  unfold unbE at h
  by_cases h1 : (headS b).2.2.2 ≠ 0
  · rw [if_pos h1] at h; exact absurd h h1
  rw [if_neg h1] at h
  have h1' : (headS b).2.2.2 = 0 := by omega
  obtain ⟨k, hk1, hk2, hn, hat, htk, hle⟩ := headS_ok (b := b) (kn := (headS b).1) (n := (headS b).2.1) (at_ := (headS b).2.2.1) (by rw [← h1'])
  by_cases h2 : b.length - (headS b).2.2.1 < (headS b).2.1 + 8
  · rw [if_pos h2] at h; cases h
  have hrk : readK b = k := by unfold readK; rw [hk1]; exact UInt8.ofNat_toNat
  have hrd : (readD b).length = (headS b).2.1 := by unfold readD; rw [List.length_take, List.length_drop]; omega
  have hd : readD b = (b.drop (1 + sz (readD b).length)).take (readD b).length := by
    rw [hrd, ← hat]; rfl
  refine ⟨?_, ?_, ?_, ?_, hd⟩
  · rw [hrk, hrd]; simp [okR, hk2, hn]
  · rw [hrd, ← hat, hrk, htk]
  · rw [hrd]; unfold sizeR; omega
  · rw [hrk, hrd, ← hk1, ← hat, ← h1']
theorem readE_unb {ch b : List UInt8} (h : readE ch b = 0) : unbE b = 0 := by
  unfold readE at h
  by_cases h1 : unbE b ≠ 0
  · rw [if_pos h1] at h; exact h
  · omega
theorem readE_ok {ch b : List UInt8} (h : readE ch b = 0) : okR (readK b) (readD b).length = true ∧ b.take (sizeR (readD b).length) = recB ch (readK b) (readD b) ∧ sizeR (readD b).length ≤ b.length := by
  obtain ⟨h1, h2, h3, h4, h5⟩ := unb_ok (readE_unb h)
  have h6 := readE_unb h
  unfold readE at h
  rw [if_neg (by omega)] at h
  by_cases h7 : (b.drop (sizeR (readD b).length - 8)).take 8 = (nextL ch (readK b) (readD b)).take 8
  · refine ⟨h1, ?_, h3⟩
    unfold recB
    rw [← h7, ← h2]
    generalize (readD b).length = n at *
    have t1 : b.take ((1 + sz n) + (n + 8)) = b.take (1 + sz n) ++ (b.drop (1 + sz n)).take (n + 8) := List.take_add
    have t2 : (b.drop (1 + sz n)).take (n + 8) = (b.drop (1 + sz n)).take n ++ ((b.drop (1 + sz n)).drop n).take 8 := List.take_add
    have t3 : sizeR n = (1 + sz n) + (n + 8) := by unfold sizeR; omega
    have t4 : sizeR n - 8 = (1 + sz n) + n := by unfold sizeR; omega
    rw [t4, t3, t1, t2, ← h5, List.drop_drop]
  · rw [if_neg h7] at h; cases h
/-- Bytes that have the form of a record. -/
theorem read_form (ch : List UInt8) (k : UInt8) (d s r : List UInt8) (hk : okR k d.length = true) (hs : s.length = 8) :
    readK (hdL k d.length ++ (d ++ (s ++ r))) = k ∧ readD (hdL k d.length ++ (d ++ (s ++ r))) = d ∧ unbE (hdL k d.length ++ (d ++ (s ++ r))) = 0 ∧
    readE ch (hdL k d.length ++ (d ++ (s ++ r))) = if s = (nextL ch k d).take 8 then 0 else 4 := by
  have hk1 : k.toNat ≠ 0 := by intro h; simp [okR, h] at hk
  have hk2 : d.length ≤ 8192 := by simp [okR] at hk; exact hk.2
  have hq := headS_of k d.length (d ++ (s ++ r)) hk1 hk2
  have e1 : readK (hdL k d.length ++ (d ++ (s ++ r))) = k := by unfold readK; rw [hq]; exact UInt8.ofNat_toNat
  have hdrop : (hdL k d.length ++ (d ++ (s ++ r))).drop (1 + sz d.length) = d ++ (s ++ r) := by rw [← hdL_len k]; exact List.drop_left
  have e2 : readD (hdL k d.length ++ (d ++ (s ++ r))) = d := by unfold readD; rw [hq]; simp only; rw [hdrop]; exact List.take_left
  have e3 : unbE (hdL k d.length ++ (d ++ (s ++ r))) = 0 := by
    unfold unbE
    rw [hq]
    simp only
    rw [if_neg (by simp), if_neg]
    simp only [List.length_append, hdL_len, hs]
    omega
  refine ⟨e1, e2, e3, ?_⟩
  unfold readE
  rw [if_neg (by omega), e1, e2]
  have e4 : ((hdL k d.length ++ (d ++ (s ++ r))).drop (sizeR d.length - 8)).take 8 = s := by
    rw [show sizeR d.length - 8 = (1 + sz d.length) + d.length from by unfold sizeR; omega, ← List.drop_drop, hdrop, List.drop_left, ← hs, List.take_left]
  rw [e4]
theorem read_rec (ch ch' : List UInt8) (k : UInt8) (d r : List UInt8) (hk : okR k d.length = true) :
    readK (recB ch k d ++ r) = k ∧ readD (recB ch k d ++ r) = d ∧ readE ch' (recB ch k d ++ r) = if (nextL ch k d).take 8 = (nextL ch' k d).take 8 then 0 else 4 := by
  have h := read_form ch' k d ((nextL ch k d).take 8) r hk (by rw [List.length_take, nextL_len]; rfl)
  have e : recB ch k d ++ r = hdL k d.length ++ (d ++ ((nextL ch k d).take 8 ++ r)) := by simp [recB]
  rw [e]
  exact ⟨h.1, h.2.1, h.2.2.2⟩
/-- What breaks off within a record isn't read. -/
theorem read_short (ch ch' : List UInt8) (k : UInt8) (d p s : List UInt8) (hk : okR k d.length = true) (hp : p ++ s = recB ch k d) (hs : s ≠ []) : readE ch' p ≠ 0 := by
  intro h
  obtain ⟨h1, h2, h3⟩ := readE_ok h
  have e1 : recB ch k d = recB ch' (readK p) (readD p) ++ (p.drop (sizeR (readD p).length) ++ s) := by
    rw [← hp, ← h2, ← List.append_assoc, List.take_append_drop]
  have r1 := read_rec ch ch k d [] hk
  have r2 := read_rec ch' ch (readK p) (readD p) (p.drop (sizeR (readD p).length) ++ s) h1
  rw [List.append_nil, e1] at r1
  have e2 : readD p = d := r2.2.1.symm.trans r1.2.1
  have hl : (p ++ s).length = sizeR d.length := by rw [hp, recB_len]
  rw [e2] at h3
  rw [List.length_append] at hl
  have : s.length = 0 := by omega
  exact hs (List.eq_nil_of_length_eq_zero this)
end Go.Proofs.Ytkglicidjdifkaa
