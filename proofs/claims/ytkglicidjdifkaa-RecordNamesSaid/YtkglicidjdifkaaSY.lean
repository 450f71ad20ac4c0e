/- Pieces of bytes that come in parts, plainly. No statement is proved here. -/
import Derived.Test.YtkglicidjdifkaaSX

namespace Go.Proofs.Ytkglicidjdifkaa
open Go.RowKit
set_option linter.unusedVariables false

theorem runN_add (s : St) (l : List UInt8) (a : Nat) : ∀ b, runN s l (a + b) = runN (runN s l a) (l.drop (128 * a)) b
  | 0 => rfl
  | b + 1 => by
    show piece (runN s l (a + b)) ((l.drop (128 * (a + b))).take 128) = piece (runN (runN s l a) (l.drop (128 * a)) b) (((l.drop (128 * a)).drop (128 * b)).take 128)
    rw [runN_add s l a b, List.drop_drop, show 128 * (a + b) = 128 * a + 128 * b from by omega]
theorem runN_app (s : St) (l x : List UInt8) : ∀ k, 128 * k ≤ l.length → runN s (l ++ x) k = runN s l k
  | 0, _ => rfl
  | k + 1, h => by
    show piece (runN s (l ++ x) k) (((l ++ x).drop (128 * k)).take 128) = piece (runN s l k) ((l.drop (128 * k)).take 128)
    rw [runN_app s l x k (by omega), List.drop_append_of_le_length (by omega), List.take_append_of_le_length (by rw [List.length_drop]; omega)]
/-- The words after all whole pieces. -/
def whole (s : St) (l : List UInt8) : St := runN s l (l.length / 128)
/-- What is left behind them. -/
def rest (l : List UInt8) : List UInt8 := l.drop (128 * (l.length / 128))
theorem whole_fits (s : St) (l : List UInt8) (hs : s.Fits) : (whole s l).Fits := runN_fits s l hs _
theorem rest_len (l : List UInt8) : (rest l).length = l.length % 128 := by unfold rest; rw [List.length_drop]; omega
theorem whole_nil (s : St) : whole s [] = s := rfl
theorem rest_nil : rest [] = [] := rfl
/-- One part more. -/
theorem feed (s : St) (D x : List UInt8) : whole (whole s D) (rest D ++ x) = whole s (D ++ x) ∧ rest (rest D ++ x) = rest (D ++ x) := by
  have hr := rest_len D
  have h1 : (D ++ x).length / 128 = D.length / 128 + (rest D ++ x).length / 128 := by simp only [List.length_append, hr]; omega
  have h2 : (D ++ x).drop (128 * (D.length / 128)) = rest D ++ x := by rw [List.drop_append_of_le_length (by omega)]; rfl
  constructor
  · unfold whole
    rw [h1, runN_add, h2, runN_app s D x _ (by omega)]
  · show (rest D ++ x).drop _ = (D ++ x).drop _
    rw [h1, Nat.mul_add, ← List.drop_drop, h2]
theorem feed2 (s : St) (D p : List UInt8) (m : Nat) (h : m = p.length ∨ m + (rest D).length = 128) (hm : m ≤ p.length) :
    whole (whole s (D ++ p.take m)) (p.drop m) = whole s (D ++ p) ∧ rest (D ++ p.take m) ++ rest (p.drop m) = rest (D ++ p) := by
  rcases h with h | h
  · subst h
    rw [List.drop_length, List.take_length, whole_nil, rest_nil, List.append_nil]
    exact ⟨rfl, rfl⟩
  · have h0 : rest (D ++ p.take m) = [] := by
      apply List.eq_nil_of_length_eq_zero
      have := rest_len D
      rw [rest_len, List.length_append, List.length_take]
      omega
    have hf := feed s (D ++ p.take m) (p.drop m)
    rw [h0, List.nil_append, List.append_assoc, List.take_append_drop] at hf
    rw [h0, List.nil_append]
    exact hf
/-- The bytes, padded. -/
def padded (l : List UInt8) : List UInt8 := l ++ padL l.length
theorem padL_len (n : Nat) : (padL n).length = zn n + 17 := by simp [padL, tl2, beP_len]
theorem padded_len (l : List UInt8) : (padded l).length % 128 = 0 := by
  unfold padded
  rw [List.length_append, padL_len]
  unfold zn
  omega
/-- The words of the sum. -/
def sumS (s : St) (l : List UInt8) : St := whole s (padded l)
theorem OwnB.after {w w' : World} {B : Nat} {A : Option Addr} {c : Nat} {l : List UInt8} (h : OwnB w B (.slice A l.length c) l) {A' : Option Addr} {c' : Nat} (hsh : Shape A c (l.length / 128) A' c') (hc : l.length % 128 ≤ c') (hm : c' ≤ maxLen) (hb : Below w.heap.size w w') :
    OwnB w' B (.slice A' (l.length % 128) c') (rest l) := by
  have hr := rest_len l
  rw [← hr] at hc ⊢
  obtain ⟨A0, c0, e, h1, h2, h3⟩ := h.ex
  injection e with e1 e2 e3
  subst e1; subst e3
  refine ⟨A', c', rfl, hc, hm, ?_⟩
  rcases hsh with hz | ⟨hk, hA⟩
  · exact .inl hz
  · rcases h3 with h3 | ⟨g, off, cur, rfl, hbg, hg, hs, ht⟩
    · exact .inl (by omega)
    · refine .inr ⟨g, off + 128 * (l.length / 128), cur, hA g off rfl, hbg, (hb.block g (Array.getElem?_eq_some_iff.1 hg).1).trans hg, by omega, ?_⟩
      have e : ((cur.toList.drop off).take l.length).drop (128 * (l.length / 128)) = (bcs l).drop (128 * (l.length / 128)) := by rw [ht]
      rw [List.drop_take, List.drop_drop, ← bcs_drop] at e
      rw [hr, show l.length % 128 = l.length - 128 * (l.length / 128) from by omega]
      exact e
end Go.Proofs.Ytkglicidjdifkaa
