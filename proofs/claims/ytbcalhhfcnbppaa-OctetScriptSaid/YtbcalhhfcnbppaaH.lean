/- The document's own writing functions (the reference): what each call returns. No statement is proved here. -/
import Derived.Test.YtbcalhhfcnbppaaL
namespace Go.Proofs.Ytbcalhhfcnbppaa
open Go.RowKit

theorem room_up (n : Nat) (h : sz n ≤ 8) : ((n : Int) / 2 ^ (7 * sz n) != 0) = false := by
  have := sz_upper n h
  rw [show (128 : Nat) = 2 ^ 7 from rfl, ← Nat.pow_mul] at this
  have e : (n : Int) / 2 ^ (7 * sz n) = ((n / 2 ^ (7 * sz n) : Nat) : Int) := by simp
  rw [e, Nat.div_eq_of_lt this]
  rfl
theorem room_low (n k : Nat) (h1 : 1 ≤ k) (h : k < sz n) : ((n : Int) / 2 ^ (7 * k) != 0) = true := by
  have h2 := sz_lower n (by omega)
  have h3 : 128 ^ k ≤ 128 ^ (sz n - 1) := Nat.pow_le_pow_right (by omega) (by omega)
  have h4 : 2 ^ (7 * k) ≤ n := by
    rw [Nat.pow_mul]
    exact Nat.le_trans h3 h2
  have e : (n : Int) / 2 ^ (7 * k) = ((n / 2 ^ (7 * k) : Nat) : Int) := by simp
  have h5 : 1 ≤ n / 2 ^ (7 * k) := by rw [Nat.le_div_iff_mul_le (Nat.two_pow_pos _)]; omega
  rw [e]
  simp
  omega

set_option maxHeartbeats 400000 in
theorem room_any (n : Nat) (w : World) (_hn : n < 18446744073709551616) :
    Calls Try.prog 42 #[.int .u64 n] w fun e w' => e = .returned (.int .i64 (sz n)) ∧ w = w' := by
  have p1 := sz_pos n
  have p9 := sz_le n
  have U := Lib.hid (room_up n)
  have Lo := Lib.hid (room_low n)
  generalize sz n = s at *
  go_enter Try.func42, Try.ntmps42
  go_wp2
  go_loop [3] (fun k => ∃ j : Nat, 1 ≤ j ∧ j ≤ s ∧ k = .int .i64 j) (fun k => s - (intOf k).toNat)
  case atStart => exact ⟨1, by omega, by omega, rfl⟩
  case round =>
    obtain ⟨j, hj1, hj, rfl⟩ := hrel
    by_cases hlt : j < s
    · have h9 : (j : Int) < 9 := by omega
      have hb := Lo.out j hj1 hlt
      go_wp2
      go_round
      case rel => exact ⟨j + 1, by omega, by omega, by go_num⟩
      case measure => simp [intOf]; omega
    · obtain rfl : j = s := by omega
      by_cases h9 : j = 9
      · subst h9
        clear U Lo
        go_wp2
        go_ret
        exact ⟨rfl, rfl⟩
      · have h8 : (j : Int) < 9 := by omega
        have hb := U.out (by omega)
        go_wp2
        go_ret
        exact ⟨rfl, rfl⟩

theorem head_sum (n s : Nat) (h1 : 1 ≤ s) (x : Nat) (hx : x = n / 256 ^ (s - 1)) :
    (IntKind.u64.wrap (256 - IntKind.u64.wrap (2 ^ (9 - s))) + (n : Int) / 2 ^ (8 * (s - 1))) % 256 = ((UInt8.ofNat (256 - 2 ^ (9 - s) + x)).toNat : Int) := by
  have e : (n : Int) / 2 ^ (8 * (s - 1)) = ((n / 256 ^ (s - 1) : Nat) : Int) := by
    rw [show (256 : Nat) = 2 ^ 8 from rfl, ← Nat.pow_mul]
    simp
  have hp : (2 : Nat) ^ (9 - s) ≤ 2 ^ 8 := Nat.pow_le_pow_right (by omega) (by omega)
  have ep : (2 : Int) ^ (9 - s) = ((2 ^ (9 - s) : Nat) : Int) := by simp
  rw [e, ← hx, UInt8.toNat_ofNat', ep, IntKind.wrap_u64, IntKind.wrap_u64]
  generalize 2 ^ (9 - s) = y at *
  omega

set_option maxHeartbeats 1000000 in
theorem refNumber_any (w : World) (S : Nat → Prop) (A : Option Addr) (n c : Nat) (l : List UInt8) (m : Nat) (hs : Src w S A n (bcs l)) (hS : ∀ b, S b → b < w.heap.size) (hn : n ≤ 1000000000) (hm : m < 18446744073709551616) :
    Calls Try.prog 21 #[.slice A n c, .int .u64 m] w (GivesFresh w (l ++ encN m)) := by
  obtain ⟨i0, hi, hz0, hz1, hz2⟩ := info_parts info5
  have hl : l.length ≤ 1000000000 := by rw [src_len hs]; exact hn
  have p1 := sz_pos m
  have p9 := sz_le m
  have CR := Lib.hid (fun w => room_any m w hm)
  have ho := own_empty w 5
  have hs1 := hs.alloc hS (.cells #[] 5)
  go_enter Try.func21, Try.ntmps21
  go_wp2_with (at_builtin; refine wpList_app _ rfl _ _ 24 rfl w.heap.size 5 i0 (.int .u8 0) 1 Try.underlying24 hi hz0 hz1 hz2 rfl _ _ _ rfl ho _ _ _ _ _ rfl hs1 (bcs_one _) (by unfold maxLen; omega) (by omega) (by simp) ?_)
  intro v2 w2 ho2 hg2 _
  have hb2 : Below w.heap.size w w2 := ((Below.refl _ w).alloc (Nat.le_refl _) _).grown hg2 (by simp) (by simp [Value.ownBlock])
  have hsz2 := hb2.size
  have HO := own_as ho2 l (by simp)
  clear ho2 hg2 hs1 ho hs
  have HE : Hid (encN m = UInt8.ofNat (256 - 2 ^ (9 - sz m) + m / 256 ^ (sz m - 1)) :: be m (sz m - 1)) := Lib.hid rfl
  have HH := Lib.hid (head_sum m (sz m) p1 _ rfl)
  have H9 : Hid (sz m = 9 → (255 : Int) = ((UInt8.ofNat (256 - 2 ^ (9 - sz m) + m / 256 ^ (sz m - 1))).toNat : Int)) := by
    intro h9
    rw [h9]
    have : m / 256 ^ (9 - 1) = 0 := Nat.div_eq_of_lt (by omega)
    rw [this]
    rfl
  generalize UInt8.ofNat (256 - 2 ^ (9 - sz m) + m / 256 ^ (sz m - 1)) = b at *
  generalize encN m = E at *
  generalize hk : sz m = k at *
  clear hk
  by_cases h9 : k = 9
  all_goals
    first | (have h9' : ((k : Int) == 9) = true := by simp; omega) | (have h9' : ((k : Int) == 9) = false := by simp; omega)
    go_wp2_with (first | (go_at_call 42; refine (CR.out _).mono ?_; rintro e w' ⟨rfl, rfl⟩) | (at_builtin; refine wpList_app _ rfl _ _ 24 rfl w.heap.size 5 i0 (.int .u8 0) 1 Try.underlying24 hi hz0 hz1 hz2 rfl _ _ _ rfl (HO.alloc _) _ _ _ _ _ rfl (Src.lit1 _ _ _) (by intro u hu; simp at hu; subst hu; rfl) (by unfold maxLen; omega) (by omega) (by simp; omega) ?_))
    intro v3 w3 ho3 hg3 _
    have hb3 : Below w.heap.size w w3 := (hb2.alloc hsz2 _).grown hg3 (by simp; omega) (fun g hg => (HO.lt g hg).1)
    have hs3 := hb3.size
    have HO3 := own_as ho3 (l ++ [b]) (by first | (rw [H9.out h9]; exact bcs_snoc _ _) | (rw [HH.out]; exact bcs_snoc _ _))
    clear ho3 hg3
    go_wp2
    go_loopw [5, 7] (fun v i wr => ∃ x : Int, -1 ≤ x ∧ x ≤ 7 ∧ i = .int .i64 x ∧ ∃ l', l' ++ be m (x + 1).toNat = l ++ E ∧ l'.length ≤ l.length + 9 ∧ wr.ownsRow w.heap.size 5 1 v l'.length (bcs l') ∧ Below w.heap.size w wr) (fun _ i _ => (intOf i + 1).toNat)
    case atStart =>
      refine ⟨(k : Int) - 2, by omega, by omega, by first | rfl | (rw [h9]; rfl), l ++ [b], ?_, by simp, HO3, hb3⟩
      rw [show ((k : Int) - 2 + 1).toNat = k - 1 from by omega, HE.out]
      simp
    case round =>
      obtain ⟨x, hx1, hx7, rfl, l', he, hll, hown, hbel⟩ := hrel
      have HE' := Lib.hid he
      clear he HO3 hb3 HO hb2
      have hsz := hbel.size
      by_cases h0 : 0 ≤ x
      · obtain ⟨j, rfl⟩ := Int.eq_ofNat_of_zero_le h0
        go_wp2_with (at_builtin; refine wpList_app _ rfl _ _ 24 rfl w.heap.size 5 i0 (.int .u8 0) 1 Try.underlying24 hi hz0 hz1 hz2 rfl _ _ _ rfl (hown.alloc _) _ _ _ _ _ rfl (Src.lit1 _ _ _) (by intro u hu; simp at hu; subst hu; rfl) (by unfold maxLen; omega) (by omega) (by simp; omega) ?_)
        intro v4 w4 hown4 hg4 _
        go_wp2
        go_roundw
        case rel =>
          rw [byte_be] at hown4
          refine ⟨(j : Int) - 1, by omega, by omega, rfl, l' ++ [UInt8.ofNat (m / 256 ^ j)], ?_, ?_, ?_, ?_⟩
          · have := HE'.out
            rw [show ((j : Int) + 1).toNat = j + 1 from by omega] at this
            rw [show ((j : Int) - 1 + 1).toNat = j from by omega, ← this]
            simp [be]
          · have := congrArg List.length HE'.out
            have h2 := congrArg List.length HE.out
            simp [be_len] at this h2
            simp
            omega
          · exact own_as hown4 _ (bcs_snoc _ _)
          · exact ((hbel.alloc (by omega) _).grown hg4 (by simp; omega) (fun g hg => (hown.lt g hg).1))
        case measure => simp [intOf]
      · go_wp2
        go_ret
        refine ⟨_, rfl, ?_, hbel⟩
        have := HE'.out
        rw [show (x + 1).toNat = 0 from by omega] at this
        simp only [be, List.append_nil] at this
        rw [← this]
        exact hown

set_option maxHeartbeats 400000 in
theorem refBlock_any (w : World) (S : Nat → Prop) (A A' : Option Addr) (n c n' c' : Nat) (l p : List UInt8) (hs : Src w S A n (bcs l)) (hp : Src w S A' n' (bcs p)) (hS : ∀ b, S b → b < w.heap.size) (hn : n ≤ 1000000000) (hn' : n' ≤ 1000000000) :
    Calls Try.prog 23 #[.slice A n c, .slice A' n' c'] w (GivesFresh w (l ++ encN p.length ++ p)) := by
  obtain ⟨i0, hi, hz0, hz1, hz2⟩ := info_parts info5
  have p9 := sz_le n'
  have hl : l.length ≤ 1000000000 := by rw [src_len hs]; exact hn
  have HP := Lib.hid (src_len hp)
  go_enter Try.func23, Try.ntmps23
  go_wp2_with (go_at_call 21; refine (refNumber_any _ S A n c l n' hs hS (by omega) (by omega)).mono ?_)
  rintro e w2 ⟨v2, rfl, ho, hb2⟩
  have hp2 := (hp.weak hS).below (S' := (· < w.heap.size)) hb2 (fun _ h => h)
  have hsz := hb2.size
  have hlen : (l ++ encN n').length ≤ 1000000010 := by rw [List.length_append, encN_len]; omega
  go_wp2_with (at_builtin; refine wpList_app _ rfl _ _ 24 rfl w.heap.size 5 i0 (.int .u8 0) 1 Try.underlying24 hi hz0 hz1 hz2 rfl _ _ _ rfl ho _ _ _ _ _ rfl hp2 (bcs_one _) (by unfold maxLen; omega) (by omega) hsz ?_)
  intro v3 w3 ho3 hg3 _
  go_wp2
  go_ret
  refine ⟨v3, rfl, ?_, hb2.grown hg3 hsz (fun g hg => (ho.lt g hg).1)⟩
  rw [HP.out, bcs_append, List.length_append, List.length_append, HP.out]
  exact ho3

set_option maxHeartbeats 1000000 in
theorem refWord_any (w : World) (S : Nat → Prop) (A : Option Addr) (n c : Nat) (l : List UInt8) (m : Nat) (size : Int) (hs : Src w S A n (bcs l)) (hS : ∀ b, S b → b < w.heap.size) (hn : n ≤ 1000000000) (_hm : m < 18446744073709551616) :
    Calls Try.prog 24 #[.slice A n c, .int .u64 m, .int .i64 size] w (GivesFresh w (l ++ le m (wsz size))) := by
  obtain ⟨i0, hi, hz0, hz1, hz2⟩ := info_parts info5
  have hl : l.length ≤ 1000000000 := by rw [src_len hs]; exact hn
  have ho := own_empty w 5
  have hs1 := hs.alloc hS (.cells #[] 5)
  have k1 := wsz_pos size
  have k8 := wsz_le size
  have hcase : (size < 1 ∧ wsz size = 1) ∨ (8 < size ∧ wsz size = 8) ∨ (1 ≤ size ∧ size ≤ 8 ∧ (wsz size : Int) = size) := by unfold wsz; omega
  generalize wsz size = k at *
  rcases hcase with ⟨h1, h2⟩ | ⟨h1, h2⟩ | ⟨h1, h1', h2⟩
  all_goals
    go_enter Try.func24, Try.ntmps24
    go_wp2_with (at_builtin; refine wpList_app _ rfl _ _ 24 rfl w.heap.size 5 i0 (.int .u8 0) 1 Try.underlying24 hi hz0 hz1 hz2 rfl _ _ _ rfl ho _ _ _ _ _ rfl hs1 (bcs_one _) (by unfold maxLen; omega) (by omega) (by simp) ?_)
    intro v2 w2 ho2 hg2 _
    have hb2 : Below w.heap.size w w2 := ((Below.refl _ w).alloc (Nat.le_refl _) _).grown hg2 (by simp) (by simp [Value.ownBlock])
    have HO := own_as ho2 l (by simp)
    have H2 := Lib.hid h2
    clear ho2 hg2 h2
    go_wp2
    go_loopw [7, 8] (fun v i wr => ∃ j : Nat, j ≤ k ∧ i = .int .i64 j ∧ wr.ownsRow w.heap.size 5 1 v (l ++ le m j).length (bcs (l ++ le m j)) ∧ Below w.heap.size w wr) (fun _ i _ => k - (intOf i).toNat)
    case atStart => exact ⟨0, by omega, rfl, by simpa [le] using HO, hb2⟩
    case round =>
      obtain ⟨j, hj, rfl, hown, hbel⟩ := hrel
      clear HO hb2
      have hsz := hbel.size
      have HLL : Hid ((l ++ le m j).length = l.length + j) := Lib.hid (by rw [List.length_append, le_len])
      have hlb : (l ++ le m j).length ≤ 1000000009 := by rw [HLL.out]; omega
      by_cases hlt : j < k
      · have ht : (j : Int) < 1 ∨ (j : Int) < 8 ∨ (j : Int) < size := by have := H2.out; omega
        have ht1 : (j : Int) < size ∨ True := .inr trivial
        first | (have hj1 : (j : Int) < size := by have := H2.out; omega) | (have hj1 : (j : Int) < 1 := by have := H2.out; omega) | (have hj1 : (j : Int) < 8 := by have := H2.out; omega)
        clear ht ht1
        go_wp2_with (at_builtin; refine wpList_app _ rfl _ _ 24 rfl w.heap.size 5 i0 (.int .u8 0) 1 Try.underlying24 hi hz0 hz1 hz2 rfl _ _ _ rfl (hown.alloc _) _ _ _ _ _ rfl (Src.lit1 _ _ _) (by intro u hu; simp at hu; subst hu; rfl) (by have := HLL.out; unfold maxLen; omega) (by have := HLL.out; omega) (by simp; omega) ?_)
        intro v3 w3 hown3 hg3 _
        go_wp2
        go_roundw
        case rel =>
          rw [byte_be] at hown3
          exact ⟨j + 1, by omega, by go_num, own_as hown3 _ (by rw [le_succ, ← List.append_assoc]; exact bcs_snoc _ _), (hbel.alloc (by omega) _).grown hg3 (by simp; omega) (fun g hg => (hown.lt g hg).1)⟩
        case measure => simp [intOf]; omega
      · obtain rfl : j = k := by omega
        first | (have hj1 : ¬ ((j : Int) < size) := by have := H2.out; omega) | skip
        first | (have hj2 : ¬ ((j : Int) < 1) := by have := H2.out; omega) | skip
        first | (have hj3 : ¬ ((j : Int) < 8) := by have := H2.out; omega) | skip
        go_wp2
        go_ret
        exact ⟨_, rfl, hown, hbel⟩
end Go.Proofs.Ytbcalhhfcnbppaa
