/- The schedule, word by word. No statement is proved here. -/
import Derived.Test.YtphalfpmgbmcaaaCA
namespace Go.Proofs.Ytphalfpmgbmcaaa
open Go.RowKit
set_option linter.unusedVariables false

theorem schedN_prefix (l0 : List Nat) (k : Nat) : ∀ m, k ≤ m → (schedN l0 m).take (l0.length + k) = schedN l0 k
  | 0, h => by
    obtain rfl : k = 0 := by omega
    simp [schedN]
  | m + 1, h => by
    rcases Nat.lt_or_ge m k with h' | h'
    · obtain rfl : k = m + 1 := by omega
      rw [← schedN_len l0 (m + 1), List.take_length]
    · show (schedN l0 m ++ _).take _ = _
      rw [List.take_append_of_le_length (by rw [schedN_len]; omega)]
      exact schedN_prefix l0 k m h'
theorem getD_take (l : List Nat) (n i : Nat) (h : i < n) : (l.take n).getD i 0 = l.getD i 0 := by
  rw [List.getD_eq_getElem?_getD, List.getD_eq_getElem?_getD, List.getElem?_take, if_pos h]
theorem sched_eq (blk : List UInt8) : sched blk = schedN (sched0 blk 16) 64 := rfl
theorem schedN_next (l0 : List Nat) (k : Nat) : schedN l0 (k + 1) = schedN l0 k ++ [wnext (schedN l0 k)] := rfl
theorem sched0_get (blk : List UInt8) (n t : Nat) (h : t < n) : (sched0 blk n).getD t 0 = beN ((blk.drop (8 * t)).take 8) := by
  unfold sched0
  rw [List.getD_eq_getElem?_getD, List.getElem?_map, List.getElem?_range h]
  rfl
theorem high_gen (l0 R : List Nat) (m k : Nat) (hl0 : l0.length = 16) (hR : R = schedN l0 m) (hk : k < m) : R.getD (16 + k) 0 = (R.getD (16 + k - 16) 0 + ss0 (R.getD (16 + k - 15) 0) + R.getD (16 + k - 7) 0 + ss1 (R.getD (16 + k - 2) 0)) % 18446744073709551616 := by
  have hp := schedN_prefix l0 k m (by omega)
  have hq := schedN_prefix l0 (k + 1) m (by omega)
  rw [← hR, hl0] at hp hq
  have hl : (schedN l0 k).length = 16 + k := by rw [schedN_len, hl0]
  have hg : ∀ i, i < 16 + k → R.getD i 0 = (schedN l0 k).getD i 0 := fun i hi => by
    rw [← hp, getD_take _ _ _ hi]
  have hn : R.getD (16 + k) 0 = wnext (schedN l0 k) := by
    rw [← getD_take R (16 + (k + 1)) (16 + k) (by omega), hq, schedN_next, List.getD_eq_getElem?_getD, List.getElem?_append_right (by omega), hl, Nat.sub_self, List.getElem?_cons_zero, Option.getD_some]
  rw [hn, hg _ (by omega), hg _ (by omega), hg _ (by omega), hg _ (by omega)]
  unfold wnext
  rw [hl]
theorem low_gen (l0 R : List Nat) (m t : Nat) (hl0 : l0.length = 16) (hR : R = schedN l0 m) (h : t < 16) : R.getD t 0 = l0.getD t 0 := by
  have hp := schedN_prefix l0 0 m (by omega)
  rw [← hR, hl0] at hp
  rw [← getD_take R (16 + 0) t (by omega), hp]
  rfl
theorem sched_low (blk : List UInt8) (t : Nat) (h : t < 16) : (sched blk).getD t 0 = beN ((blk.drop (8 * t)).take 8) := by
  rw [low_gen (sched0 blk 16) (sched blk) 64 t (sched0_len blk 16) (sched_eq blk) h, sched0_get _ _ _ h]
theorem sched_high (blk : List UInt8) (t : Nat) (h1 : 16 ≤ t) (h2 : t < 80) : (sched blk).getD t 0 = ((sched blk).getD (t - 16) 0 + ss0 ((sched blk).getD (t - 15) 0) + (sched blk).getD (t - 7) 0 + ss1 ((sched blk).getD (t - 2) 0)) % 18446744073709551616 := by
  obtain ⟨k, rfl⟩ : ∃ k, t = 16 + k := ⟨t - 16, by omega⟩
  exact high_gen (sched0 blk 16) (sched blk) 64 k (sched0_len blk 16) (sched_eq blk) (by omega)
/-- What is written up to t, and in t a beginning v. -/
structure Xs (R X : List Nat) (t v : Nat) : Prop where
  len : X.length = 80
  lo : ∀ j, j < t → X.getD j 0 = R.getD j 0
  at_ : t < 80 → X.getD t 0 = v
  hi : ∀ j, t < j → X.getD j 0 = 0
theorem getD_set_self (l : List Nat) (k x : Nat) (h : k < l.length) : (l.set k x).getD k 0 = x := by
  rw [List.getD_eq_getElem?_getD, List.getElem?_set_self h]
  rfl
theorem getD_set_ne' (l : List Nat) (k x t : Nat) (h : k ≠ t) : (l.set k x).getD t 0 = l.getD t 0 := by
  rw [List.getD_eq_getElem?_getD, List.getElem?_set_ne h, ← List.getD_eq_getElem?_getD]
theorem Xs.put {R X : List Nat} {t v : Nat} (h : Xs R X t v) (ht : t < 80) (x : Nat) : Xs R (X.set t x) t x :=
  ⟨by rw [List.length_set, h.len], fun j hj => by rw [getD_set_ne' _ _ _ _ (by omega)]; exact h.lo j hj, fun _ => getD_set_self _ _ _ (by rw [h.len]; exact ht), fun j hj => by rw [getD_set_ne' _ _ _ _ (by omega)]; exact h.hi j hj⟩
theorem Xs.next {R X : List Nat} {t v : Nat} (h : Xs R X t v) (ht : t < 80) (hv : v = R.getD t 0) : Xs R X (t + 1) 0 :=
  ⟨h.len, fun j hj => by
    by_cases e : j = t
    · subst e; rw [h.at_ ht, hv]
    · exact h.lo j (by omega), fun _ => h.hi _ (by omega), fun j hj => h.hi j (by omega)⟩
theorem Xs.start (R : List Nat) : Xs R (List.replicate 80 0) 0 0 :=
  ⟨by simp, fun j hj => by omega, fun _ => rfl, fun j _ => by rw [List.getD_eq_getElem?_getD, List.getElem?_replicate]; split <;> rfl⟩
theorem Xs.done {R X : List Nat} (h : Xs R X 80 0) (hR : R.length = 80) : X = R := by
  apply List.ext_getElem (by rw [h.len, hR])
  intro i h1 h2
  have := h.lo i (by rw [hR] at h2; exact h2)
  rw [List.getD_eq_getElem?_getD, List.getD_eq_getElem?_getD, List.getElem?_eq_getElem h1, List.getElem?_eq_getElem h2] at this
  exact this
theorem byte_in {x y i : Nat} (hx : x < 256 ^ i) (hi : i < 8) (hy : y < 256) : bits .or .u64 (IntKind.u64.wrap ((x : Int) * 256)) (y : Int) = ((x * 256 + y : Nat) : Int) := by
  have h1 : 256 ^ i ≤ 256 ^ 7 := Nat.pow_le_pow_right (by omega) (by omega)
  have h2 : IntKind.u64.wrap ((x : Int) * 256) = ((x * 256 : Nat) : Int) := by rw [IntKind.wrap_u64]; omega
  rw [h2, u64_or_nat _ _ (by omega) (by omega), nat_join 8 (x * 256) y (by omega) (by omega)]
theorem beN_next (l : List UInt8) (t i : Nat) (h : 8 * t + i < l.length) : beN ((l.drop (8 * t)).take (i + 1)) = beN ((l.drop (8 * t)).take i) * 256 + (l.getD (8 * t + i) 0).toNat ∧ beN ((l.drop (8 * t)).take i) < 256 ^ i := by
  have h1 : i < (l.drop (8 * t)).length := by rw [List.length_drop]; omega
  constructor
  · rw [List.take_succ_eq_append_getElem h1, beN_snoc, List.getElem_drop, List.getD_eq_getElem?_getD, List.getElem?_eq_getElem h]
    rfl
  · exact beN_lt i _ (by rw [List.length_take, List.length_drop]; omega)
end Go.Proofs.Ytphalfpmgbmcaaa
