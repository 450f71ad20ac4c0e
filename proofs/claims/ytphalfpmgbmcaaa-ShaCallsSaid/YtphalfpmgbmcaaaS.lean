/- What is padded, plainly; Own. No statement is proved here. -/
import Derived.Test.YtphalfpmgbmcaaaU
namespace Go.Proofs.Ytphalfpmgbmcaaa
open Go.RowKit
set_option linter.unusedVariables false

theorem padL_small (n : Nat) (h : n ≤ 2000) : padL n = 128 :: (List.replicate (zn n + 14) 0 ++ [UInt8.ofNat (n * 8 / 256), UInt8.ofNat (n * 8)]) := by
  have h0 : n / 2305843009213693952 = 0 := by omega
  unfold padL
  rw [h0]
  have e : tl2 0 (n * 8) 2 = List.replicate 14 0 ++ [UInt8.ofNat (n * 8 / 256), UInt8.ofNat (n * 8)] := by
    have z : ∀ k, 65536 ≤ k → n * 8 / k = 0 := fun k hk => Nat.div_eq_of_lt (by omega)
    simp only [tl2, List.take, List.map, List.flatten, beP, List.range, List.range.loop, Nat.zero_div]
    rw [z (2 ^ (56 - 8 * 0)) (by decide), z (2 ^ (56 - 8 * 1)) (by decide), z (2 ^ (56 - 8 * 2)) (by decide), z (2 ^ (56 - 8 * 3)) (by decide), z (2 ^ (56 - 8 * 4)) (by decide), z (2 ^ (56 - 8 * 5)) (by decide), show n * 8 / 2 ^ (56 - 8 * 6) = n * 8 / 256 from rfl, show n * 8 / 2 ^ (56 - 8 * 7) = n * 8 from by simp]
    rfl
  rw [e, ← List.append_assoc, List.cons_append, List.cons_append, List.replicate_append_replicate]
theorem padded_len_eq (l : List UInt8) : (padded l).length = l.length + (zn l.length + 17) := by
  unfold padded
  rw [List.length_append, padL_len]
theorem padded_head (l : List UInt8) (i : Nat) (h : i < l.length) : (padded l)[i]? = l[i]? := by
  unfold padded
  rw [List.getElem?_append_left h]
theorem padded_take (l : List UInt8) : (padded l).take l.length = l := by
  unfold padded
  rw [List.take_left']
  rfl
theorem padded_one (l : List UInt8) : (padded l)[l.length]? = some 128 := by
  unfold padded padL
  rw [List.getElem?_append_right (Nat.le_refl _), Nat.sub_self]
  rfl
theorem padded_zero (l : List UInt8) (hl : l.length ≤ 2000) (i : Nat) (h : l.length + 1 ≤ i) (h2 : i < (padded l).length - 4) : (padded l)[i]? = some 0 := by
  rw [padded_len_eq] at h2
  unfold padded
  rw [padL_small _ hl, List.getElem?_append_right (by omega)]
  obtain ⟨k, rfl⟩ : ∃ k, i = l.length + (k + 1) := ⟨i - l.length - 1, by omega⟩
  rw [show l.length + (k + 1) - l.length = k + 1 from by omega, List.getElem?_cons_succ, List.getElem?_append_left (by simp; omega), List.getElem?_replicate, if_pos (by omega)]
theorem padded_last (l : List UInt8) (hl : l.length ≤ 2000) : ∀ k, k < 4 → (padded l)[(padded l).length - 4 + k]? = some (UInt8.ofNat (l.length * 8 / 256 ^ (3 - k)))
  | k, hk => by
    rw [padded_len_eq]
    unfold padded
    rw [padL_small _ hl, List.getElem?_append_right (by omega), show l.length + (zn l.length + 17) - 4 + k - l.length = zn l.length + 12 + k + 1 from by omega, List.getElem?_cons_succ]
    have z : ∀ k, 65536 ≤ k → l.length * 8 / k = 0 := fun k hk => Nat.div_eq_of_lt (by omega)
    match k, hk with
    | 0, _ => rw [List.getElem?_append_left (by simp), List.getElem?_replicate, if_pos (by omega), z (256 ^ (3 - 0)) (by decide)]; rfl
    | 1, _ => rw [List.getElem?_append_left (by simp), List.getElem?_replicate, if_pos (by omega), z (256 ^ (3 - 1)) (by decide)]; rfl
    | 2, _ => rw [List.getElem?_append_right (by simp), List.length_replicate, show zn l.length + 12 + 2 - (zn l.length + 14) = 0 from by omega]; rfl
    | 3, _ => rw [List.getElem?_append_right (by simp), List.length_replicate, show zn l.length + 12 + 3 - (zn l.length + 14) = 1 from by omega]; simp
/-- Different bytes are padded differently. -/
theorem padded_inj (l m : List UInt8) (hl : l.length ≤ 2000) (hm : m.length ≤ 2000) (h : padded l = padded m) : l = m := by
  have a2 := padded_last l hl 2 (by omega)
  have b2 := padded_last m hm 2 (by omega)
  have a3 := padded_last l hl 3 (by omega)
  have b3 := padded_last m hm 3 (by omega)
  rw [h] at a2 a3
  rw [a2] at b2
  rw [a3] at b3
  injection b2 with b2
  injection b3 with b3
  have c2 := congrArg UInt8.toNat b2
  have c3 := congrArg UInt8.toNat b3
  simp only [UInt8.toNat_ofNat'] at c2 c3
  have e : l.length = m.length := by simp at c2 c3; omega
  have := padded_take l
  rw [h, e, padded_take] at this
  exact this.symm
set_option maxRecDepth 100000 in
/-- Own: the same bytes in a new row. -/
theorem own_any (l : List UInt8) (w : World) (S : Nat → Prop) (A : Option Addr) (n c : Nat) (hs : Src w S A n (bcs l)) (hS : ∀ b, S b → b < w.heap.size) (hb : n ≤ 1000000000) :
    Calls Try.prog 16 #[.slice A n c] w (GivesB w l) := by
  have HS := Lib.hid hs
  go_enter Try.func16, Try.ntmps16
  have HA := fun w' (h : Below w.heap.size w w') => Lib.hid (HS.out.below' h hS)
  have HH := Lib.hid HA
  clear HA hs
  go_wp2_with (at_builtin; refine wpList_appB ?g1 _ _ rfl w.heap.size _ _ rfl (OwnB.of_nil _) _ _ _ _ l rfl (HH.out _ (below_alloc w _)).out (by simp; omega) (by simp) ?_; exact rfl; intro v' w3 ho3 hb3)
  have HO3 : Hid (OwnB w3 w.heap.size v' l) := Lib.hid (by simpa using ho3)
  have HB3 : Hid (Below w.heap.size w w3) := Lib.hid ((below_alloc w _).trans hb3)
  clear ho3 hb3
  go_wp2
  go_ret
  exact ⟨_, rfl, HO3.out, HB3.out⟩
end Go.Proofs.Ytphalfpmgbmcaaa
