/- What was written one after the other, read back: on lists alone. No statement is proved here. -/
import Derived.Test.YtbcalhhfcnbppaaG
namespace Go.Proofs.Ytbcalhhfcnbppaa

theorem num_at (pre rest : List UInt8) (n : Nat) (hn : n < 18446744073709551616) : numS (pre ++ (encN n ++ rest)) pre.length 0 = (n, pre.length + sz n, 0) := by
  unfold numS
  rw [if_pos rfl, List.drop_left, dec_enc n (by omega) rest]
theorem take_at (pre q rest : List UInt8) : takeS (pre ++ (q ++ rest)) pre.length 0 q.length = (q, pre.length + q.length, 0) := by
  unfold takeS
  rw [if_neg (by omega), if_neg (by simp), List.drop_left, List.take_left]
theorem blk_at (pre p rest : List UInt8) (hp : p.length < 18446744073709551616) : blkS (pre ++ (encN p.length ++ (p ++ rest))) pre.length 0 = (p, pre.length + sz p.length + p.length, 0) := by
  have h1 := num_at pre (p ++ rest) p.length hp
  unfold blkS
  rw [if_pos rfl, h1]
  simp only
  have e : pre ++ (encN p.length ++ (p ++ rest)) = (pre ++ encN p.length) ++ (p ++ rest) := by simp
  have h2 := take_at (pre ++ encN p.length) p rest
  rw [← e, List.length_append, encN_len] at h2
  rw [h2, if_pos ⟨by trivial, by simp [encN_len]; omega⟩]
/-- A number that was read is written as the bytes that it took. -/
theorem num_back (b : List UInt8) (h : (numS b 0 0).2.2 = 0) : encN (numS b 0 0).1 = b.take (numS b 0 0).2.1 ∧ (numS b 0 0).2.1 ≤ b.length := by
  unfold numS at h ⊢
  rw [if_pos rfl] at h ⊢
  simp only [List.drop_zero, Nat.zero_add] at h ⊢
  have := enc_dec b (decN b).1 (decN b).2.1 (by rw [← h])
  exact ⟨this.1, this.2.1⟩
theorem blk_back (b : List UInt8) (h : (blkS b 0 0).2.2 = 0) : encN (blkS b 0 0).1.length ++ (blkS b 0 0).1 = b.take (blkS b 0 0).2.1 ∧ (blkS b 0 0).2.1 ≤ b.length := by
  unfold blkS at h ⊢
  rw [if_pos rfl] at h ⊢
  by_cases hok : (numS b 0 0).2.2 = 0 ∧ (numS b 0 0).1 ≤ b.length - (numS b 0 0).2.1
  · rw [if_pos hok] at h ⊢
    obtain ⟨h1, h2⟩ := num_back b hok.1
    have ht : takeS b (numS b 0 0).2.1 (numS b 0 0).2.2 (numS b 0 0).1 = ((b.drop (numS b 0 0).2.1).take (numS b 0 0).1, (numS b 0 0).2.1 + (numS b 0 0).1, 0) := by
      unfold takeS
      rw [if_neg (by omega), if_neg (by omega)]
    rw [ht]
    simp only
    have hl : ((b.drop (numS b 0 0).2.1).take (numS b 0 0).1).length = (numS b 0 0).1 := by rw [List.length_take, List.length_drop]; omega
    rw [hl, h1]
    refine ⟨?_, by omega⟩
    rw [List.take_add]
  · rw [if_neg hok] at h
    simp only at h
    exfalso
    unfold takeS at h
    split at h
    · rename_i he
      exact he h
    · split at h
      · simp at h
      · omega
theorem blk_lt (b : List UInt8) : (blkS b 0 0).1.length ≤ b.length := by
  unfold blkS
  rw [if_pos rfl]
  split
  · exact takeS_len _ _ _ _
  · simp

theorem lev_le (m : Nat) : ∀ k, lev (le m k) = m % 256 ^ k
  | 0 => by simp [le, lev, Nat.mod_one]
  | k + 1 => by
    have e : m % 256 ^ (k + 1) = m % 256 ^ k + 256 ^ k * (m / 256 ^ k % 256) := by rw [Nat.pow_succ, Nat.mod_mul]
    rw [e, le_succ, lev_snoc, lev_le m k, le_len, UInt8.toNat_ofNat', Nat.mul_comm (256 ^ k)]
theorem mask_at (s : Nat) (h1 : 1 ≤ s) (h8 : s ≤ 8) : (18446744073709551615 : Int) / 2 ^ (64 - 8 * s) = ((256 ^ s - 1 : Nat) : Int) := by
  obtain rfl | rfl | rfl | rfl | rfl | rfl | rfl | rfl : s = 1 ∨ s = 2 ∨ s = 3 ∨ s = 4 ∨ s = 5 ∨ s = 6 ∨ s = 7 ∨ s = 8 := by omega
  all_goals decide
theorem and_at (m s : Nat) (hm : m < 18446744073709551616) (h8 : s ≤ 8) : bits .and .u64 (m : Int) ((256 ^ s - 1 : Nat) : Int) = ((m % 256 ^ s : Nat) : Int) := by
  have hs : 256 ^ s ≤ 256 ^ 8 := Nat.pow_le_pow_right (by omega) h8
  rw [u64_and_nat m _ hm (by omega), show (256 : Nat) = 2 ^ 8 from rfl, ← Nat.pow_mul, Nat.and_two_pow_sub_one_eq_mod]
end Go.Proofs.Ytbcalhhfcnbppaa
