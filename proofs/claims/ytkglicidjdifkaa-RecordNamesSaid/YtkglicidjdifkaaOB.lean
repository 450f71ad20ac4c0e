/- The writing functions of package octet, with their loops. No statement is proved here. -/
import Derived.Test.YtkglicidjdifkaaOA

namespace Go.Proofs.Ytkglicidjdifkaa
open Go.RowKit

/-- The row goes on: it is the call's own from B on, it holds l, and nothing below B has changed. -/
def GivesOwn (B : Nat) (w : World) (l : List UInt8) (e : Ending) (w' : World) : Prop := ∃ v, e = .returned v ∧ w'.ownsRow B 5 1 v l.length (bcs l) ∧ Below B w w'

theorem or_low : ∀ s : Fin 10, ∀ r : Fin 256, 1 ≤ s.val → r.val < 2 ^ (8 - s.val) → (256 - 2 ^ (9 - s.val)) ||| r.val = 256 - 2 ^ (9 - s.val) + r.val ∧ 256 - 2 ^ (9 - s.val) + r.val < 256 := by decide +kernel
theorem or_head (s x : Nat) (h1 : 1 ≤ s) (h9 : s ≤ 9) (hx : x < 2 ^ (8 - s)) :
    bits .or .u8 ((256 - 2 ^ (9 - s) : Nat) : Int) ((x % 256 : Nat) : Int) = ((UInt8.ofNat (256 - 2 ^ (9 - s) + x)).toNat : Int) := by
  have hx' : x < 256 := Nat.lt_of_lt_of_le hx (by
    have := Nat.pow_le_pow_right (show 0 < 2 by omega) (show 8 - s ≤ 8 by omega)
    omega)
  have h := or_low ⟨s, by omega⟩ ⟨x, hx'⟩ h1 hx
  simp only at h
  rw [Nat.mod_eq_of_lt hx', u8_or_nat _ _ (by omega) hx', h.1, UInt8.toNat_ofNat']
  omega

theorem byte_be (n k : Nat) : (n : Int) / 2 ^ (8 * k) % 256 = ((UInt8.ofNat (n / 256 ^ k)).toNat : Int) := by
  rw [UInt8.toNat_ofNat', show (256 : Nat) = 2 ^ 8 from rfl, ← Nat.pow_mul]
  simp

set_option maxHeartbeats 400000 in
theorem putNumber_any (w : World) (B : Nat) (v : Value) (l : List UInt8) (n : Nat) (hown : w.ownsRow B 5 1 v l.length (bcs l)) (hB : B ≤ w.heap.size) (hl : l.length ≤ 1099511627776) (hn : n < 18446744073709551616) :
    Calls Try.prog 40 #[v, .int .u64 n] w (GivesOwn B w (l ++ encN n)) := by
  obtain ⟨i0, hi, hz0, hz1, hz2⟩ := info_parts info5
  have p1 := sz_pos n
  have p9 := sz_le n
  have cs := numberSize_any n
  have cm := fun w => mark_any (sz n) w p1 p9
  have ch := fun w => highest_any n (sz n) w hn p1 p9
  have hor := or_head (sz n) (n / 256 ^ (sz n - 1)) p1 p9 (head_small n (by omega))
  have HE : Hid (encN n = UInt8.ofNat (256 - 2 ^ (9 - sz n) + n / 256 ^ (sz n - 1)) :: be n (sz n - 1)) := Lib.hid rfl
  generalize (256 - 2 ^ (9 - sz n) : Nat) = m at *
  generalize UInt8.ofNat (m + n / 256 ^ (sz n - 1)) = b at *
  generalize n / 256 ^ (sz n - 1) % 256 = q at *
  generalize encN n = E at *
  generalize hk : sz n = k at *
  clear hk
  have CS := Lib.hid cs
  have CM := Lib.hid cm
  have CH := Lib.hid ch
  clear cs cm ch
  go_enter Try.func40, Try.ntmps40
  go_wp2_with (first | (go_at_call 41; refine (CS.out _ hn).mono ?_; rintro e w' ⟨rfl, rfl⟩) | (go_at_call 48; refine (CM.out _).mono ?_; rintro e w' ⟨rfl, rfl⟩) | (go_at_call 49; refine (CH.out _).mono ?_; rintro e w' ⟨rfl, rfl⟩) | (at_builtin; refine wpList_app _ rfl _ _ 26 rfl B 5 i0 (.int .u8 0) 1 Try.underlying26 hi hz0 hz1 hz2 rfl _ _ _ rfl (hown.alloc _) _ _ _ _ _ rfl (Src.lit1 _ _ _) ?c1 ?c2 ?c3 ?c4 ?_))
  case c1 => exact bcs_one [b]
  case c2 => unfold maxLen; omega
  case c3 => omega
  case c4 => simp; omega
  intro v1 w1 hown1 hg1 _
  have hb1 : Below B w w1 := ((Below.refl B w).alloc hB _).grown hg1 (by simp; omega) (fun g hg => (hown.lt g hg).1)
  have hs1 := hb1.size
  have HO : w1.ownsRow B 5 1 v1 (l ++ [b]).length (bcs (l ++ [b])) := by
    rw [bcs_append, List.length_append]
    exact hown1
  clear hown1 hg1 hown hor
  go_wp2
  go_loopw [0, 6] (fun v i wr => ∃ x : Int, -1 ≤ x ∧ x ≤ 7 ∧ i = .int .i64 x ∧ ∃ l', l' ++ be n (x + 1).toNat = l ++ E ∧ l'.length ≤ l.length + 9 ∧ wr.ownsRow B 5 1 v l'.length (bcs l') ∧ Below B w wr) (fun _ i _ => (intOf i + 1).toNat)
  case atStart =>
    refine ⟨(k : Int) - 2, by omega, by omega, rfl, l ++ [b], ?_, by simp, HO, hb1⟩
    rw [show ((k : Int) - 2 + 1).toNat = k - 1 from by omega, HE.out]
    simp
  case round =>
    obtain ⟨x, hx1, hx7, rfl, l', he, hll, hown, hbel⟩ := hrel
    have HE' := Lib.hid he
    clear he HO hb1
    have hsz := hbel.size
    by_cases h0 : 0 ≤ x
    · obtain ⟨j, rfl⟩ := Int.eq_ofNat_of_zero_le h0
      go_wp2_with (at_builtin; refine wpList_app _ rfl _ _ 26 rfl B 5 i0 (.int .u8 0) 1 Try.underlying26 hi hz0 hz1 hz2 rfl _ _ _ rfl (hown.alloc _) _ _ _ _ _ rfl (Src.lit1 _ _ _) ?c1 ?c2 ?c3 ?c4 ?_)
      case c1 => rw [byte_be]; exact bcs_one [_]
      case c2 => unfold maxLen; omega
      case c3 => omega
      case c4 => simp; omega
      intro v2 w2 hown2 hg2 _
      go_wp2
      go_roundw
      case rel =>
        rw [byte_be] at hown2
        refine ⟨(j : Int) - 1, by omega, by omega, rfl, l' ++ [UInt8.ofNat (n / 256 ^ j)], ?_, ?_, ?_, ?_⟩
        · have := HE'.out
          rw [show ((j : Int) + 1).toNat = j + 1 from by omega] at this
          rw [show ((j : Int) - 1 + 1).toNat = j from by omega, ← this]
          simp [be]
        · have := congrArg List.length HE'.out
          have h2 := congrArg List.length HE.out
          simp [be_len] at this h2
          simp
          omega
        · rw [bcs_append, List.length_append]
          exact hown2
        · exact ((hbel.alloc (by omega) _).grown hg2 (by simp; omega) (fun g hg => (hown.lt g hg).1))
      case measure => simp [intOf]
    · go_wp2
      go_ret
      refine ⟨u0, rfl, ?_, hbel⟩
      have := HE'.out
      rw [show (x + 1).toNat = 0 from by omega] at this
      simp only [be, List.append_nil] at this
      rw [← this]
      exact hown

theorem src_len {w : World} {S : Nat → Prop} {A : Option Addr} {n : Nat} {l : List UInt8} (h : Src w S A n (bcs l)) : l.length = n := by
  rw [← h.len, bcs_len]

set_option maxHeartbeats 400000 in
theorem number_any (w : World) (S : Nat → Prop) (A : Option Addr) (n c : Nat) (l : List UInt8) (m : Nat) (hs : Src w S A n (bcs l)) (hS : ∀ b, S b → b < w.heap.size) (hn : n ≤ 1000000000) (hm : m < 18446744073709551616) :
    Calls Try.prog 34 #[.slice A n c, .int .u64 m] w (GivesFresh w (l ++ encN m)) := by
  have p9 := sz_le m
  have hl : l.length ≤ 1000000000 := by rw [src_len hs]; exact hn
  go_enter Try.func34, Try.ntmps34
  go_wp2_with (first | (go_at_call 41; refine (numberSize_any m _ hm).mono ?_; rintro e w' ⟨rfl, rfl⟩) | (go_at_call 32; refine (withRoom_any _ S A n c l (sz m) hs hS (by omega) (by omega)).mono ?_))
  rintro e w1 ⟨v1, rfl, hf⟩
  go_wp2_with (go_at_call 40; refine (putNumber_any w1 w.heap.size v1 l m hf.1 hf.2.size (by omega) hm).mono ?_)
  rintro e w2 ⟨v2, rfl, ho, hb⟩
  go_wp2
  go_ret
  exact ⟨v2, rfl, ho, hf.2.trans hb⟩

/-- The low k bytes of a number, the lowest first. -/
def le (n : Nat) (k : Nat) : List UInt8 := (List.range k).map fun i => UInt8.ofNat (n / 256 ^ i)
theorem le_len (n k : Nat) : (le n k).length = k := by simp [le]
theorem le_succ (n k : Nat) : le n (k + 1) = le n k ++ [UInt8.ofNat (n / 256 ^ k)] := by simp [le, List.range_succ]
/-- A word's size. -/
def wsz (size : Int) : Nat := (min (max size 1) 8).toNat
theorem wsz_pos (size : Int) : 1 ≤ wsz size := by unfold wsz; omega
theorem wsz_le (size : Int) : wsz size ≤ 8 := by unfold wsz; omega

set_option maxHeartbeats 400000 in
theorem word_any (w : World) (S : Nat → Prop) (A : Option Addr) (n c : Nat) (l : List UInt8) (m : Nat) (size : Int) (hs : Src w S A n (bcs l)) (hS : ∀ b, S b → b < w.heap.size) (hn : n ≤ 1000000000) (_hm : m < 18446744073709551616) :
    Calls Try.prog 22 #[.slice A n c, .int .u64 m, .int .i64 size] w (GivesFresh w (l ++ le m (wsz size))) := by
  obtain ⟨i0, hi, hz0, hz1, hz2⟩ := info_parts info5
  have hl : l.length ≤ 1000000000 := by rw [src_len hs]; exact hn
  have k1 := wsz_pos size
  have k8 := wsz_le size
  have CW := Lib.hid (fun w => (wordSize_any size w).mono (R' := fun e w' => e = .returned (.int .i64 (wsz size)) ∧ w = w') fun e w' h => ⟨h.1.trans (ret_int (by unfold wsz; omega)), h.2⟩)
  generalize wsz size = k at *
  go_enter Try.func22, Try.ntmps22
  go_wp2_with (first | (go_at_call 31; refine (CW.out _).mono ?_; rintro e w' ⟨rfl, rfl⟩) | (go_at_call 32; refine (withRoom_any _ S A n c l k hs hS (by omega) (by omega)).mono ?_))
  rintro e w1 ⟨v1, rfl, hf⟩
  have hb0 := hf.2
  have hs0 := hb0.size
  go_wp2
  go_loopw [0, 7, 14] (fun v _ i wr => ∃ j : Nat, j ≤ k ∧ i = .int .i64 j ∧ wr.ownsRow w.heap.size 5 1 v (l ++ le m j).length (bcs (l ++ le m j)) ∧ Below w.heap.size w wr) (fun _ _ i _ => k - (intOf i).toNat)
  case atStart => exact ⟨0, by omega, rfl, by simpa [le] using hf.1, hf.2⟩
  case round =>
    obtain ⟨j, hj, rfl, hown, hbel⟩ := hrel
    clear hf hb0 hs0
    have hsz := hbel.size
    have hll : (l ++ le m j).length = l.length + j := by rw [List.length_append, le_len]
    have HLL := Lib.hid hll
    clear hll
    have hlb : (l ++ le m j).length ≤ 1000000009 := by rw [HLL.out]; omega
    by_cases hlt : j < k
    · go_wp2_with (at_builtin; refine wpList_app _ rfl _ _ 26 rfl w.heap.size 5 i0 (.int .u8 0) 1 Try.underlying26 hi hz0 hz1 hz2 rfl _ _ _ rfl (hown.alloc _) _ _ _ _ _ rfl (Src.lit1 _ _ _) ?c1 ?c2 ?c3 ?c4 ?_)
      case c1 => rw [byte_be]; exact bcs_one [_]
      case c2 => have := HLL.out; unfold maxLen; omega
      case c3 => have := HLL.out; omega
      case c4 => simp; omega
      intro v2 w2 hown2 hg2 _
      go_wp2
      go_roundw
      case rel =>
        rw [byte_be] at hown2
        refine ⟨j + 1, by omega, by go_num, ?_, ?_⟩
        · exact own_as hown2 _ (by rw [le_succ, ← List.append_assoc]; exact bcs_snoc _ _)
        · exact ((hbel.alloc (by omega) _).grown hg2 (by simp; omega) (fun g hg => (hown.lt g hg).1))
      case measure => simp [intOf]; omega
    · obtain rfl : j = k := by omega
      go_wp2
      go_ret
      exact ⟨u0, rfl, hown, hbel⟩
end Go.Proofs.Ytkglicidjdifkaa
