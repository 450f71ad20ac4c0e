/- Several texts in one. No statement is proved here. -/
import Derived.Test.YtgdimnbdnepbgaaN6
import Derived.Test.YtgdimnbdnepbgaaN2
import Derived.Test.YtgdimnbdnepbgaaN5
import Derived.ChangeSame
/- The reference's Plus, Minus and Times as numbers. No statement is proved here. -/
namespace Go.Proofs.Ytgdimnbdnepbgaa
open Go.RowKit
set_option linter.unusedVariables false
set_option maxRecDepth 40000
set_option linter.unusedSimpArgs false

theorem m10_le (i : Nat) : m10 i ≤ 67108864 := by unfold m10; split <;> decide
theorem m10_ge (i : Nat) : 33554432 ≤ m10 i := by unfold m10; split <;> decide
theorem m10_odd (i : Nat) (h : i % 2 = 1) : m10 i = 33554432 := by unfold m10; rw [if_neg (by omega)]
/-- A carry of words of which only the lowest is long. -/
theorem cry_bnd2 (o : List Nat) (h : o.length = 10) (h0 : o.getD 0 0 < 1125899906842624) (hi : ∀ i, i < 10 → 0 < i → o.getD i 0 < m10 i) :
    ∀ n, n ≤ 10 → (∀ i, i < n → 0 < i → (cry o n).getD i 0 < m10 i) ∧ (n ≤ 9 → 0 < n → (cry o n).getD 0 0 < 67108864) ∧ (n ≤ 9 → (cry o n).getD n 0 / m10 n < 16777216 ∧ (0 < n → (cry o n).getD n 0 / m10 n < 2)) ∧ (n = 10 → (cry o n).getD 0 0 < 67108902)
  | 0, _ => ⟨fun i hi => absurd hi (by omega), fun _ h => absurd h (by omega), fun _ => ⟨by show o.getD 0 0 / 67108864 < _; omega, fun h => absurd h (by omega)⟩, fun h => absurd h (by omega)⟩
  | n + 1, hn => by
    obtain ⟨k1, k2, k3, _⟩ := cry_bnd2 o h h0 hi n (by omega)
    obtain ⟨hc, hc2⟩ := k3 (by omega)
    have hl : (cry o n).length = 10 := (cry_len o n).trans h
    have hlat : n ≤ 8 → (cry o n).getD (n + 1) 0 < m10 (n + 1) := fun h8 => by rw [cry_later o n (n + 1) (by omega) (by omega)]; exact hi _ (by omega) (by omega)
    have hm : (cry o n).getD n 0 % m10 n < m10 n := Nat.mod_lt _ (by have := m10_ge n; omega)
    have hm0 := m10_le n
    show (∀ i, i < n + 1 → 0 < i → (cst (cry o n) n).getD i 0 < m10 i) ∧ (n + 1 ≤ 9 → 0 < n + 1 → (cst (cry o n) n).getD 0 0 < 67108864) ∧ (n + 1 ≤ 9 → (cst (cry o n) n).getD (n + 1) 0 / m10 (n + 1) < 16777216 ∧ (0 < n + 1 → (cst (cry o n) n).getD (n + 1) 0 / m10 (n + 1) < 2)) ∧ (n + 1 = 10 → (cst (cry o n) n).getD 0 0 < 67108902)
    unfold cst
    by_cases h9 : n = 9
    · subst h9
      rw [if_pos rfl]
      refine ⟨fun i hi h0 => ?_, fun h => absurd h (by omega), fun h => absurd h (by omega), fun _ => ?_⟩
      · rw [getD_set_other _ _ _ _ (by omega)]
        by_cases hi9 : i = 9
        · subst hi9
          rw [getD_set_eq _ _ _ (by omega)]
          exact hm
        · rw [getD_set_other _ _ _ _ (by omega)]
          exact k1 i (by omega) h0
      · rw [getD_set_eq _ _ _ (by rw [List.length_set]; omega), getD_set_other _ _ _ _ (by omega)]
        have := k2 (by omega) (by omega)
        have hc' : (cry o 9).getD 9 0 / 33554432 < 2 := hc2 (by omega)
        omega
    · rw [if_neg h9]
      refine ⟨fun i hi h0 => ?_, fun _ _ => ?_, fun _ => ?_, fun h => absurd h (by omega)⟩
      · rw [getD_set_other _ _ _ _ (by omega)]
        by_cases hin : i = n
        · subst hin
          rw [getD_set_eq _ _ _ (by omega)]
          exact hm
        · rw [getD_set_other _ _ _ _ (by omega)]
          exact k1 i (by omega) h0
      · rw [getD_set_other _ _ _ _ (by omega)]
        by_cases hn0 : n = 0
        · subst hn0
          rw [getD_set_eq _ _ _ (by omega)]
          exact hm
        · rw [getD_set_other _ _ _ _ (by omega)]
          exact k2 (by omega) (by omega)
      · rw [getD_set_eq _ _ _ (by rw [List.length_set]; omega), getD_set_other _ _ _ _ (by omega)]
        have hw := hlat (by omega)
        have hg := m10_ge (n + 1)
        have : ((cry o n).getD (n + 1) 0 + (cry o n).getD n 0 / m10 n) / m10 (n + 1) < 2 := by
          rw [Nat.div_lt_iff_lt_mul (by omega)]
          omega
        exact ⟨by omega, fun _ => this⟩
/-- A carry's words, where the words before are below B. -/
theorem cry_R (o : List Nat) (h : o.length = 10) (B C : Nat) (hB : ∀ i, i < 10 → o.getD i 0 < B) (hC : (B + C) / 33554432 < C) (hC2 : 19 * C ≤ 1024) : R10 (cry o 10) := by
  obtain ⟨k1, _, _, k4⟩ := cry_bnd o h B C hB hC 10 (Nat.le_refl _)
  refine ⟨(cry_len _ _).trans h, fun i hi => ?_⟩
  by_cases hi0 : i = 0
  · subst hi0
    have := k4 rfl
    exact ⟨by omega, fun h => absurd h (by omega)⟩
  · have h1 := k1 i hi (by omega)
    have h2 := m10_le i
    exact ⟨by omega, fun h => by rw [m10_odd i h] at h1; omega⟩
/-- What is kept of a number by its residue. -/
theorem cry_res (o : List Nat) (h : o.length = 10) : val10 (cry o 10) % PP = val10 o % PP := by
  obtain ⟨q, hq⟩ := cry_val o h 10 (Nat.le_refl _)
  rw [← hq]
  show _ = (val10 (cry o 10) + q * PP) % PP
  rw [Nat.add_mul_mod_self_right]
theorem addk_len (o b : List Nat) (n : Nat) : (addk o b n).length = o.length := by
  induction n with
  | zero => rfl
  | succ n ih => unfold addk; rw [List.length_set, ih]
theorem msk_len (o b : List Nat) (n : Nat) : (msk o b n).length = o.length := by
  induction n with
  | zero => rfl
  | succ n ih => unfold msk; rw [List.length_set, ih]
theorem addk_word (o b : List Nat) (h : o.length = 10) : ∀ n, n ≤ 10 → ∀ i, i < n → (addk o b n).getD i 0 = o.getD i 0 + b.getD i 0
  | 0, _, i, hi => absurd hi (by omega)
  | n + 1, hn, i, hi => by
    show ((addk o b n).set n ((addk o b n).getD n 0 + b.getD n 0)).getD i 0 = _
    by_cases hin : i = n
    · subst hin
      rw [getD_set_eq _ _ _ (by rw [addk_len]; omega), addk_later o b i i (Nat.le_refl _)]
    · rw [getD_set_other _ _ _ _ (by omega)]
      exact addk_word o b h n (by omega) i (by omega)
theorem msk_word (o b : List Nat) (h : o.length = 10) : ∀ n, n ≤ 10 → ∀ i, i < n → (msk o b n).getD i 0 = o.getD i 0 + (k10 i - b.getD i 0)
  | 0, _, i, hi => absurd hi (by omega)
  | n + 1, hn, i, hi => by
    show ((msk o b n).set n ((msk o b n).getD n 0 + (k10 n - b.getD n 0))).getD i 0 = _
    by_cases hin : i = n
    · subst hin
      rw [getD_set_eq _ _ _ (by rw [msk_len]; omega), msk_later o b i i (Nat.le_refl _)]
    · rw [getD_set_other _ _ _ _ (by omega)]
      exact msk_word o b h n (by omega) i (by omega)
theorem addk_ten (o b : List Nat) (h : o.length = 10) : ∀ n, n ≤ 10 → val10 (addk o b n) = val10 o + pv b n
  | 0, _ => rfl
  | n + 1, hn => by
    show val10 ((addk o b n).set n ((addk o b n).getD n 0 + b.getD n 0)) = val10 o + (pv b n + b.getD n 0 * E10 n)
    rw [val10_add _ ((addk_len o b n).trans h) n _ (by omega), addk_ten o b h n (by omega), Nat.add_assoc]
/-- The partial sums of 4 p. -/
def pk : Nat → Nat
  | 0 => 0
  | k + 1 => pk k + k10 k * E10 k
theorem pk_all : pk 10 = 4 * PP := by decide +kernel
theorem msk_val (o b : List Nat) (h : o.length = 10) (hb : ∀ i, i < 10 → b.getD i 0 ≤ k10 i) : ∀ n, n ≤ 10 → val10 (msk o b n) + pv b n = val10 o + pk n
  | 0, _ => rfl
  | n + 1, hn => by
    have ih := msk_val o b h hb n (by omega)
    have hw := hb n (by omega)
    show val10 ((msk o b n).set n ((msk o b n).getD n 0 + (k10 n - b.getD n 0))) + (pv b n + b.getD n 0 * E10 n) = val10 o + (pk n + k10 n * E10 n)
    rw [val10_add _ ((msk_len o b n).trans h) n _ (by omega)]
    have he : (k10 n - b.getD n 0) * E10 n + b.getD n 0 * E10 n = k10 n * E10 n := by rw [← Nat.add_mul, Nat.sub_add_cancel hw]
    generalize (k10 n - b.getD n 0) * E10 n = x at *
    generalize b.getD n 0 * E10 n = y at *
    generalize k10 n * E10 n = z at *
    omega
theorem R10_k (b : List Nat) (h : R10 b) (i : Nat) (hi : i < 10) : b.getD i 0 ≤ k10 i := by
  obtain ⟨h1, h2⟩ := h.2 i hi
  unfold k10
  split
  · omega
  · split
    · omega
    · have := h2 (by omega); omega

theorem Plus_gives (x y : List Nat) (hx : R10 x) (hy : R10 y) : ∃ z, R10 z ∧ val10 z % PP = (val10 x + val10 y) % PP ∧ ∀ w, Calls Try.prog 71 #[.agg (ics x).toArray, .agg (ics y).toArray] w (Gives (.agg (ics z).toArray) w) := by
  have hl : (addk x y 10).length = 10 := (addk_len x y 10).trans hx.1
  have hB : ∀ i, i < 10 → (addk x y 10).getD i 0 < 134219777 := fun i hi => by
    rw [addk_word x y hx.1 10 (Nat.le_refl _) i hi]
    have := (hx.2 i hi).1
    have := (hy.2 i hi).1
    omega
  refine ⟨cry (addk x y 10) 10, cry_R _ hl 134219777 5 hB (by decide) (by decide), ?_, fun w => ?_⟩
  · rw [cry_res _ hl, addk_ten x y hx.1 10 (Nat.le_refl _), pv_all y hy.1]
  · refine Plus_core x y w (Lib.hid hx.1) (Lib.hid hy.1) (Lib.hid fun i hi => ?_) (Lib.hid fun i hi => ?_) (Lib.hid fun w => carry_any _ hl (fun i hi => ?_) w)
    · have := (hx.2 i hi).1; omega
    · have := (hy.2 i hi).1; omega
    · have := hB i hi; omega
theorem Minus_gives (x y : List Nat) (hx : R10 x) (hy : R10 y) : ∃ z, R10 z ∧ (val10 z + val10 y) % PP = val10 x % PP ∧ ∀ w, Calls Try.prog 73 #[.agg (ics x).toArray, .agg (ics y).toArray] w (Gives (.agg (ics z).toArray) w) := by
  have hl : (msk x y 10).length = 10 := (msk_len x y 10).trans hx.1
  have hk10 : ∀ i, k10 i ≤ 268435452 := fun i => by unfold k10; split; decide; split <;> decide
  have hB : ∀ i, i < 10 → (msk x y 10).getD i 0 < 335545341 := fun i hi => by
    rw [msk_word x y hx.1 10 (Nat.le_refl _) i hi]
    have := (hx.2 i hi).1
    have := hk10 i
    omega
  refine ⟨cry (msk x y 10) 10, cry_R _ hl 335545341 11 hB (by decide) (by decide), ?_, fun w => ?_⟩
  · have h := msk_val x y hx.1 (R10_k y hy) 10 (Nat.le_refl _)
    rw [pv_all y hy.1, pk_all] at h
    rw [Nat.add_mod, cry_res _ hl, ← Nat.add_mod, h, Nat.add_mul_mod_self_right]
  · refine Minus_core x y w (Lib.hid hx.1) (Lib.hid hy.1) (Lib.hid fun i hi => ?_) (Lib.hid (R10_k y hy)) (Lib.hid fun w => carry_any _ hl (fun i hi => ?_) w)
    · have := (hx.2 i hi).1; omega
    · have := hB i hi; omega
theorem Times_gives (x y : List Nat) (hx : R10 x) (hy : R10 y) : ∃ z, R10 z ∧ val10 z % PP = (val10 x * val10 y) % PP ∧ ∀ w, Calls Try.prog 75 #[.agg (ics x).toArray, .agg (ics y).toArray] w (Gives (.agg (ics z).toArray) w) := by
  have hl := tims_len x y 10
  have hB : ∀ i, i < 10 → (tims x y 10).getD i 0 < 855710042831183361 := fun i hi => by
    have := tims_bnd _ rfl x y hx hy 10 (Nat.le_refl _) i hi
    omega
  obtain ⟨k1, _, _, k4⟩ := cry_bnd (tims x y 10) hl 855710042831183361 34359738368 hB (by decide) 10 (Nat.le_refl _)
  have k4 := k4 rfl
  have hl1 : (cry (tims x y 10) 10).length = 10 := (cry_len _ _).trans hl
  have hl2 : (cry (cry (tims x y 10) 10) 10).length = 10 := (cry_len _ _).trans hl1
  obtain ⟨j1, _, _, j4⟩ := cry_bnd2 (cry (tims x y 10) 10) hl1 (by omega) (fun i hi h0 => k1 i hi h0) 10 (Nat.le_refl _)
  have j4 := j4 rfl
  refine ⟨cry (cry (tims x y 10) 10) 10, ⟨hl2, fun i hi => ?_⟩, ?_, fun w => ?_⟩
  · by_cases hi0 : i = 0
    · subst hi0
      exact ⟨by omega, fun h => absurd h (by omega)⟩
    · have h1 := j1 i hi (by omega)
      have h2 := m10_le i
      exact ⟨by omega, fun h => by rw [m10_odd i h] at h1; omega⟩
  · rw [cry_res _ hl1, cry_res _ hl, tims_val x y hy.1 10 (Nat.le_refl _), pv_all x hx.1]
  · refine Times_core x y w (Lib.hid hx) (Lib.hid hy) (Lib.hid fun w => carry_any _ hl (fun i hi => ?_) w) (Lib.hid fun w => carry_any _ hl1 (fun i hi => ?_) w)
    · have := hB i hi; omega
    · by_cases hi0 : i = 0
      · subst hi0; omega
      · have h1 := k1 i hi (by omega)
        have h2 := m10_le i
        omega
end Go.Proofs.Ytgdimnbdnepbgaa
/- The reference's Power. No statement is proved here. -/
namespace Go.Proofs.Ytgdimnbdnepbgaa
open Go.RowKit
set_option linter.unusedVariables false
set_option maxRecDepth 40000
set_option linter.unusedSimpArgs false

/-- The memory of Power. -/
structure Py (w : World) (x : List Nat) (l : List UInt8) (o : List Nat) (w' : World) : Prop where
  a : IAt w' w.heap.size x
  b : BAt w' (w.heap.size + 1) l
  res : w'.heap[w.heap.size + 2]? = some (.cells ziw 65 (0, 0))
  out : w'.heap[w.heap.size + 3]? = some (.cells (ics o).toArray 65 (0, 0))
  ol : o.length = 10
  bel : Below w.heap.size w w'
theorem Py.put {w : World} {x : List Nat} {l : List UInt8} {o o' : List Nat} {w' w'' : World} (h : Py w x l o w') (hl : o'.length = 10) (hg : w'.grownBy w'' (some (w.heap.size + 3))) (hh : w''.heap[w.heap.size + 3]? = some (.cells (ics o').toArray 65 (0, 0))) : Py w x l o' w'' :=
  ⟨h.a.grown hg (by simp), h.b.grown hg (by simp), (hg.block _ (Array.getElem?_eq_some_iff.1 h.res).1 (by simp)).trans h.res, hh, hl, h.bel.grown hg h.bel.size (fun r hr => by injection hr; omega)⟩
theorem Py.keep {w : World} {x : List Nat} {l : List UInt8} {o : List Nat} {w' w'' : World} (h : Py w x l o w') (hb : Below w'.heap.size w' w'') : Py w x l o w'' :=
  ⟨h.a.keep hb, h.b.keep hb, (hb.block _ (Array.getElem?_eq_some_iff.1 h.res).1).trans h.res, (hb.block _ (Array.getElem?_eq_some_iff.1 h.out).1).trans h.out, h.ol, h.bel.trans (hb.mono h.bel.size)⟩
theorem Py.start {w : World} {x : List Nat} {l : List UInt8} {o : List Nat} {w1 w2 w3 w4 w5 : World} (hx : x.length = 10) (hl : l.length = 32) (ho : o.length = 10)
    (h1 : w1.heap[w.heap.size]? = some (.cells (ics x).toArray 65 (0, 0))) (z1 : w1.heap.size = w.heap.size + 1) (g1 : w.grownBy w1 none)
    (h2 : w2.heap[w1.heap.size]? = some (.cells (bcs l).toArray 23 (0, 0))) (z2 : w2.heap.size = w1.heap.size + 1) (g2 : w1.grownBy w2 none)
    (h3 : w3.heap[w2.heap.size]? = some (.cells ziw 65 (0, 0))) (z3 : w3.heap.size = w2.heap.size + 1) (g3 : w2.grownBy w3 none)
    (z4 : w4.heap.size = w3.heap.size + 1) (g4 : w3.grownBy w4 none)
    (h5 : w5.heap[w3.heap.size]? = some (.cells (ics o).toArray 65 (0, 0))) (g5 : w4.grownBy w5 (some w3.heap.size)) : Py w x l o w5 := by
  have b1 := below_of_grownBy g1
  have b2 := below_of_grownBy g2
  have b3 := below_of_grownBy g3
  have b4 := below_of_grownBy g4
  have b5 : Below w3.heap.size w4 w5 := (Below.refl _ _).grown g5 (by omega) (fun r hr => by injection hr; omega)
  rw [z1] at h2 b2 z2
  rw [z2] at h3 b3 z3
  rw [z3] at h5 b4 b5
  refine ⟨⟨hx, 65, ?_⟩, ⟨hl, 23, ?_⟩, ?_, h5, ho, ?_⟩
  · exact (b5.block _ (by omega)).trans ((b4.block _ (by omega)).trans ((b3.block _ (by omega)).trans ((b2.block _ (by omega)).trans h1)))
  · exact (b5.block _ (by omega)).trans ((b4.block _ (by omega)).trans ((b3.block _ (by omega)).trans h2))
  · exact (b5.block _ (by omega)).trans ((b4.block _ (by omega)).trans h3)
  · exact b1.trans ((b2.mono (by omega)).trans ((b3.mono (by omega)).trans ((b4.mono (by omega)).trans (b5.mono (by omega)))))
/-- Bit i of a number's bytes. -/
def bitL (l : List UInt8) (i : Nat) : Nat := (l.getD (i / 8) 0).toNat / 2 ^ (i % 8) % 2
/-- The number of bytes, the low one first. -/
def leb : List UInt8 → Nat
  | [] => 0
  | b :: t => b.toNat + 256 * leb t
theorem leb_bit : ∀ (l : List UInt8) (n : Nat), leb l / 2 ^ n % 2 = bitL l n
  | [], n => by simp [leb, bitL]
  | b :: t, n => by
    by_cases h : n < 8
    · unfold bitL leb
      rw [Nat.div_eq_of_lt h, Nat.mod_eq_of_lt h, List.getD_cons_zero]
      have hn : n = 0 ∨ n = 1 ∨ n = 2 ∨ n = 3 ∨ n = 4 ∨ n = 5 ∨ n = 6 ∨ n = 7 := by omega
      rcases hn with rfl | rfl | rfl | rfl | rfl | rfl | rfl | rfl <;> omega
    · obtain ⟨k, rfl⟩ : ∃ k, n = 8 + k := ⟨n - 8, by omega⟩
      have ih := leb_bit t k
      unfold bitL at ih ⊢
      unfold leb
      rw [show (8 + k) / 8 = k / 8 + 1 from by omega, show (8 + k) % 8 = k % 8 from by omega, List.getD_cons_succ, ← ih, Nat.pow_add, ← Nat.div_div_eq_div_mul]
      have hb := UInt8.toNat_lt b
      rw [show (b.toNat + 256 * leb t) / 2 ^ 8 = leb t from by omega]
theorem nv_leb (l : List UInt8) (h : l.length = 32) : nv l = leb l := by
  obtain ⟨x0, x1, x2, x3, x4, x5, x6, x7, x8, x9, x10, x11, x12, x13, x14, x15, x16, x17, x18, x19, x20, x21, x22, x23, x24, x25, x26, x27, x28, x29, x30, x31, rfl⟩ : ∃ x0 x1 x2 x3 x4 x5 x6 x7 x8 x9 x10 x11 x12 x13 x14 x15 x16 x17 x18 x19 x20 x21 x22 x23 x24 x25 x26 x27 x28 x29 x30 x31, l = [x0, x1, x2, x3, x4, x5, x6, x7, x8, x9, x10, x11, x12, x13, x14, x15, x16, x17, x18, x19, x20, x21, x22, x23, x24, x25, x26, x27, x28, x29, x30, x31] := by
    match l, h with
    | [x0, x1, x2, x3, x4, x5, x6, x7, x8, x9, x10, x11, x12, x13, x14, x15, x16, x17, x18, x19, x20, x21, x22, x23, x24, x25, x26, x27, x28, x29, x30, x31], _ => exact ⟨_, _, _, _, _, _, _, _, _, _, _, _, _, _, _, _, _, _, _, _, _, _, _, _, _, _, _, _, _, _, _, _, rfl⟩
  simp only [nv, q8, num8, bt, leb, List.getD_cons_zero, List.getD_cons_succ, Nat.reduceAdd]
  omega
theorem bit_step (l : List UInt8) (h : l.length = 32) (n : Nat) : nv l / 2 ^ n = 2 * (nv l / 2 ^ (n + 1)) + bitL l n := by
  rw [nv_leb l h, ← leb_bit, Nat.pow_succ, ← Nat.div_div_eq_div_mul]
  omega
theorem bit_int (l : List UInt8) (k : Nat) : ((((l[k / 8]?.getD 0).toNat : Nat) : Int) / 2 ^ (k % 8)).tmod 2 = ((bitL l k : Nat) : Int) := by
  unfold bitL
  rw [List.getD_eq_getElem?_getD, show ((2 : Int) ^ (k % 8)) = ((2 ^ (k % 8) : Nat) : Int) from by simp, ← Int.natCast_ediv]
  rfl
theorem bitL_lt (l : List UInt8) (k : Nat) : bitL l k < 2 := Nat.mod_lt _ (by decide)
/-- The power after bits 255 .. n. -/
structure Pq (v : Nat) (l : List UInt8) (n : Nat) (o : List Nat) : Prop where
  r : R10 o
  num : val10 o % PP = v ^ (nv l / 2 ^ n) % PP
theorem Pq.zero {v : Nat} {l : List UInt8} {n : Nat} {o z : List Nat} (h : Pq v l (n + 1) o) (hl : l.length = 32) (hb : bitL l n = 0) (hz : R10 z) (hv : val10 z % PP = val10 o * val10 o % PP) : Pq v l n z :=
  ⟨hz, by rw [bit_step l hl n, hb, Nat.add_zero, Nat.two_mul, Nat.pow_add, hv, Nat.mul_mod, h.num, ← Nat.mul_mod]⟩
theorem Pq.one {v : Nat} {l : List UInt8} {n : Nat} {o z y x : List Nat} (h : Pq v l (n + 1) o) (hl : l.length = 32) (hb : bitL l n = 1) (hv : val10 z % PP = val10 o * val10 o % PP) (hy : R10 y) (hyv : val10 y % PP = val10 z * val10 x % PP) (hx : val10 x = v) : Pq v l n y :=
  ⟨hy, by
    have e : val10 o * val10 o % PP = v ^ (nv l / 2 ^ (n + 1)) * v ^ (nv l / 2 ^ (n + 1)) % PP := by rw [Nat.mul_mod, h.num, ← Nat.mul_mod]
    rw [bit_step l hl n, hb, Nat.two_mul, Nat.pow_add, Nat.pow_add, Nat.pow_one, hyv, Nat.mul_mod, hv, e, hx, ← Nat.mul_mod]⟩
theorem Pq.start (v : Nat) (l : List UInt8) : Pq v l 256 [1, 0, 0, 0, 0, 0, 0, 0, 0, 0] := by
  refine ⟨⟨rfl, fun i hi => ?_⟩, ?_⟩
  · have hn : i = 0 ∨ i = 1 ∨ i = 2 ∨ i = 3 ∨ i = 4 ∨ i = 5 ∨ i = 6 ∨ i = 7 ∨ i = 8 ∨ i = 9 := by omega
    rcases hn with rfl | rfl | rfl | rfl | rfl | rfl | rfl | rfl | rfl | rfl <;> decide
  · rw [Nat.div_eq_of_lt (nv_lt l)]
    rfl

set_option maxHeartbeats 2000000 in
theorem Power_core (x : List Nat) (l : List UInt8) (w : World) (HX : Hid (R10 x)) (HL : Hid (l.length = 32)) :
    Calls Try.prog 77 #[.agg (ics x).toArray, .agg (bcs l).toArray] w (fun e w' => ∃ o, R10 o ∧ val10 o % PP = val10 x ^ nv l % PP ∧ e = .returned (.agg (ics o).toArray) ∧ Below w.heap.size w w') := by
  go_enter Try.func77, Try.ntmps77
  go_wp2_with (first | ((with_reducible show wpList _ _ _ (⟨some 2, .box 65 (.tmp 0), _, _, _, _⟩ :: _) _ _); go_must (refine wpList_box_row rfl 65 (.tmp 0) rfl (ics x).toArray rfl ?_; intro w1 h1 z1 g1; have H1 := Lib.hid h1; have Z1 := Lib.hid z1; have G1 := Lib.hid g1; clear h1 z1 g1)) | ((with_reducible show wpList _ _ _ (⟨some 3, .box 23 (.tmp 1), _, _, _, _⟩ :: _) _ _); go_must (refine wpList_box_row rfl 23 (.tmp 1) rfl (bcs l).toArray rfl ?_; intro w2 h1 z1 g1; have H2 := Lib.hid h1; have Z2 := Lib.hid z1; have G2 := Lib.hid g1; clear h1 z1 g1)) | ((with_reducible show wpList _ _ _ (⟨some 4, .alloc 65, _, _, _, _⟩ :: _) _ _); go_must (refine wpList_alloc_row rfl 65 rfl (.agg ziw) zero65 ?_; intro w3 h1 z1 g1; have H3 := Lib.hid h1; have Z3 := Lib.hid z1; have G3 := Lib.hid g1; clear h1 z1 g1)) | ((with_reducible show wpList _ _ _ (⟨some 5, .alloc 65, _, _, _, _⟩ :: _) _ _); go_must (refine wpList_alloc_row rfl 65 rfl (.agg ziw) zero65 ?_; intro w4 h1 z1 g1; have H4 := Lib.hid h1; have Z4 := Lib.hid z1; have G4 := Lib.hid g1; clear h1 z1 g1)) | ((with_reducible show wpList _ _ _ (⟨none, .store 65 (.tmp 5) (.tmp 7), _, _, _, _⟩ :: _) _ _); go_must (refine wpList_store_all rfl 65 (.tmp 5) (.tmp 7) rfl w3.heap.size rfl (ics [1, 0, 0, 0, 0, 0, 0, 0, 0, 0]).toArray rfl 65 _ H4.out size65 rfl (ics_one _) ?_; intro w5 hh hg hz; have H5 := Lib.hid hh; have G5 := Lib.hid hg; clear hh hg hz)))
  have S : Hid (Py w x l [1, 0, 0, 0, 0, 0, 0, 0, 0, 0] w5) := Py.start HX.out.1 HL.out rfl H1.out Z1.out G1.out H2.out Z2.out G2.out H3.out Z3.out G3.out Z4.out G4.out H5.out G5.out
  rw [show w3.heap.size = w.heap.size + 3 from by rw [Z3.out, Z2.out, Z1.out], show w2.heap.size = w.heap.size + 2 from by rw [Z2.out, Z1.out], show w1.heap.size = w.heap.size + 1 from Z1.out]
  clear H1 Z1 G1 H2 Z2 G2 H3 Z3 G3 H4 Z4 G4 H5 G5
  have HP : Hid (Pq (val10 x) l 256 [1, 0, 0, 0, 0, 0, 0, 0, 0, 0]) := Pq.start _ l
  go_loopw [6] (fun i wr => ∃ n : Nat, ∃ o : List Nat, n ≤ 256 ∧ i = .int .i64 ((n : Int) - 1) ∧ Pq (val10 x) l n o ∧ Py w x l o wr) (fun i _ => (intOf i + 1).toNat)
  case atStart => exact ⟨256, _, by omega, rfl, HP.out, S.out⟩
  case round =>
    obtain ⟨n, o, hn, rfl, hp, hy⟩ := hrel
    have P := Lib.hid hp
    have H := Lib.hid hy
    clear hp hy S HP
    by_cases h0 : n = 0
    · subst h0
      have HN : Hid (val10 o % PP = val10 x ^ nv l % PP) := by have h := P.out.num; rw [Nat.pow_zero, Nat.div_one] at h; exact h
      have HR := Lib.hid P.out.r
      have HOL := Lib.hid H.out.ol
      go_wp2_with (first | ((with_reducible show wpList _ _ _ (⟨_, .load 65 (.tmp 5), _, _, _, _⟩ :: _) _ _); go_must (refine wpList_load_arr rfl 65 (.tmp 5) rfl (w.heap.size + 3) 0 rfl (ics o) (fun i u hu => by rw [Nat.zero_add]; exact row_cells H.out.out i u (by simpa using hu)) _ under65 rfl (by rw [ics_len, HOL.out]; exact size65) ?_)) | ((with_reducible show wpList _ _ _ (⟨none, .store 65 (.tmp 4) (.tmp 28), _, _, _, _⟩ :: _) _ _); go_must (refine wpList_store_all rfl 65 (.tmp 4) (.tmp 28) rfl (w.heap.size + 2) rfl (ics o).toArray rfl 65 _ H.out.res (by rw [List.size_toArray, ics_len, HOL.out]; exact size65) (by rw [List.size_toArray, ics_len, HOL.out]; rfl) (ics_one _) ?_; intro x6 hh hg hz; have HH := Lib.hid hh; have HG := Lib.hid hg; clear hh hg hz)) | fail)
      refine bodyPost_ret (results_cell_row rfl _ _ (w.heap.size + 2) 65 (ics o).toArray _ _ rfl HH.out under65 rfl (by rw [List.size_toArray, ics_len, HOL.out]; exact size65)) rfl ?_
      exact ⟨o, HR.out, HN.out, rfl, H.out.bel.grown HG.out H.out.bel.size (fun r hr => by injection hr; omega)⟩
    · obtain ⟨k, rfl⟩ : ∃ k, n = k + 1 := ⟨n - 1, by omega⟩
      rw [show (((k + 1 : Nat) : Int) - 1) = (k : Int) from by omega]
      obtain ⟨z, hz, hzv, hzc⟩ := Times_gives o o P.out.r P.out.r
      have HZ := Lib.hid hz
      have HZV := Lib.hid hzv
      have HZC := Lib.hid hzc
      have HOL := Lib.hid H.out.ol
      have HZL : Hid (z.length = 10) := hz.1
      clear hz hzv hzc
      go_wp2_with (first | ((with_reducible show wpList _ _ _ (⟨_, .load 65 (.tmp 5), _, _, _, _⟩ :: _) _ _); go_must (refine wpList_load_arr rfl 65 (.tmp 5) rfl (w.heap.size + 3) 0 rfl (ics o) (fun i u hu => by rw [Nat.zero_add]; exact row_cells H.out.out i u (by simpa using hu)) _ under65 rfl (by rw [ics_len, HOL.out]; exact size65) ?_)) | fail)
      refine (HZC.out _).mono ?_
      rintro e x4 ⟨rfl, hb⟩
      have H1 := Lib.hid (H.out.keep hb)
      clear hb H HZC
      obtain ⟨y, hy, hyv, hyc⟩ := Times_gives z x HZ.out HX.out
      have HY := Lib.hid hy
      have HYV := Lib.hid hyv
      have HYC := Lib.hid hyc
      have HYL : Hid (y.length = 10) := hy.1
      clear hy hyv hyc
      go_wp2_with (first | ((with_reducible show wpList _ _ _ (⟨none, .store 65 (.tmp 5) (.tmp 14), _, _, _, _⟩ :: _) _ _); go_must (refine wpList_store_all rfl 65 (.tmp 5) (.tmp 14) rfl (w.heap.size + 3) rfl (ics z).toArray rfl 65 _ H1.out.out (by rw [List.size_toArray, ics_len, HZL.out]; exact size65) (by rw [List.size_toArray, List.size_toArray, ics_len, ics_len, HZL.out, HOL.out]) (ics_one _) ?_; intro x5 hh hg hz; have H2 := Lib.hid (H1.out.put HZL.out hg hh); clear hh hg hz H1; have cb := H2.out.b.cell (k / 8) (by omega); have HTX := Lib.hid H2.out.a.2.choose_spec; have HXL : Hid (x.length = 10) := H2.out.a.1)) | ((with_reducible show wpList _ _ _ (⟨some 25, .load 65 (.tmp 5), _, _, _, _⟩ :: _) _ _); go_must (refine wpList_load_arr rfl 65 (.tmp 5) rfl (w.heap.size + 3) 0 rfl (ics z) (fun i u hu => by rw [Nat.zero_add]; exact row_cells H2.out.out i u (by simpa using hu)) _ under65 rfl (by rw [ics_len, HZL.out]; exact size65) ?_)) | ((with_reducible show wpList _ _ _ (⟨some 26, .load 65 (.tmp 2), _, _, _, _⟩ :: _) _ _); go_must (refine wpList_load_arr rfl 65 (.tmp 2) rfl w.heap.size 0 rfl (ics x) (fun i u hu => by rw [Nat.zero_add]; exact row_cells HTX.out i u (by simpa using hu)) _ under65 rfl (by rw [ics_len, HXL.out]; exact size65) ?_)) | fail)
      · rename ((((((l[k / 8]?.getD 0).toNat : Nat) : Int) / 2 ^ (k % 8)).tmod 2 == 1) = true) => h
        have hb1 : bitL l k = 1 := by rw [bit_int] at h; have := eq_of_beq h; omega
        have P1 := Lib.hid (P.out.one HL.out hb1 HZV.out HY.out HYV.out rfl)
        clear h hb1 P HTX
        refine (HYC.out _).mono ?_
        rintro e x6 ⟨rfl, hb⟩
        have H3 := Lib.hid (H2.out.keep hb)
        clear hb H2 HYC cb
        go_wp2_with (first | ((with_reducible show wpList _ _ _ (⟨none, .store 65 (.tmp 5) (.tmp 27), _, _, _, _⟩ :: _) _ _); go_must (refine wpList_store_all rfl 65 (.tmp 5) (.tmp 27) rfl (w.heap.size + 3) rfl (ics y).toArray rfl 65 _ H3.out.out (by rw [List.size_toArray, ics_len, HYL.out]; exact size65) (by rw [List.size_toArray, List.size_toArray, ics_len, ics_len, HYL.out, HZL.out]) (ics_one _) ?_; intro x7 hh hg hz; have H4 := Lib.hid (H3.out.put HYL.out hg hh); clear hh hg hz H3)) | fail)
        exact ⟨⟨k, y, by omega, rfl, P1.out, H4.out⟩, by simp [intOf]⟩
      · rename ((((((l[k / 8]?.getD 0).toNat : Nat) : Int) / 2 ^ (k % 8)).tmod 2 == 1) = false) => h
        have hb1 : bitL l k = 0 := by
          rw [bit_int] at h
          have h2 := bitL_lt l k
          by_cases e : bitL l k = 1
          · rw [e] at h; exact absurd h (by decide)
          · omega
        exact ⟨⟨k, z, by omega, rfl, P.out.zero HL.out hb1 HZ.out HZV.out, H2.out⟩, by simp [intOf]⟩
end Go.Proofs.Ytgdimnbdnepbgaa
/- The reference's Open. No statement is proved here. -/
namespace Go.Proofs.Ytgdimnbdnepbgaa
open Go.RowKit
set_option linter.unusedVariables false
set_option maxRecDepth 40000
set_option linter.unusedSimpArgs false

/-- The memory of Open. -/
structure Oy (w : World) (l : List UInt8) (o : List Nat) (w' : World) : Prop where
  b : BAt w' w.heap.size l
  res : w'.heap[w.heap.size + 1]? = some (.cells ziw 65 (0, 0))
  o : IAt w' (w.heap.size + 2) o
  bel : Below w.heap.size w w'
theorem Oy.set {w : World} {l : List UInt8} {o : List Nat} {w' w'' : World} {t : TypeId} (h : Oy w l o w') (hg : w'.grownBy w'' (some (w.heap.size + 2))) (i v : Nat) (hh : w''.heap[w.heap.size + 2]? = some (.cells (ics (o.set i v)).toArray t (0, 0))) : Oy w l (o.set i v) w'' :=
  ⟨h.b.grown hg (by simp), (hg.block _ (Array.getElem?_eq_some_iff.1 h.res).1 (by simp)).trans h.res, ⟨by rw [List.length_set]; exact h.o.1, t, hh⟩, h.bel.grown hg h.bel.size (fun r hr => by injection hr; omega)⟩
theorem Oy.keep {w : World} {l : List UInt8} {o : List Nat} {w' w'' : World} (h : Oy w l o w') (hb : Below w'.heap.size w' w'') : Oy w l o w'' :=
  ⟨h.b.keep hb, (hb.block _ (Array.getElem?_eq_some_iff.1 h.res).1).trans h.res, h.o.keep hb, h.bel.trans (hb.mono h.bel.size)⟩
theorem Oy.start {w : World} {l : List UInt8} {w1 w2 w3 : World} (hl : l.length = 32)
    (h1 : w1.heap[w.heap.size]? = some (.cells (bcs l).toArray 23 (0, 0))) (z1 : w1.heap.size = w.heap.size + 1) (g1 : w.grownBy w1 none)
    (h2 : w2.heap[w1.heap.size]? = some (.cells ziw 65 (0, 0))) (z2 : w2.heap.size = w1.heap.size + 1) (g2 : w1.grownBy w2 none)
    (h3 : w3.heap[w2.heap.size]? = some (.cells ziw 65 (0, 0))) (g3 : w2.grownBy w3 none) : Oy w l (List.replicate 10 0) w3 := by
  have b1 := below_of_grownBy g1
  have b2 := below_of_grownBy g2
  have b3 := below_of_grownBy g3
  rw [z1] at h2 b2 z2
  rw [z2] at h3 b3
  refine ⟨⟨hl, 23, ?_⟩, ?_, ⟨rfl, 65, h3⟩, ?_⟩
  · exact (b3.block _ (by omega)).trans ((b2.block _ (by omega)).trans h1)
  · exact (b3.block _ (by omega)).trans h2
  · exact b1.trans ((b2.mono (by omega)).trans (b3.mono (by omega)))
/-- Where word i starts, and how many bits it takes. -/
def off : Nat → Nat
  | 0 => 0
  | i + 1 => off i + b10 i
def ob (i : Nat) : Nat := if i = 9 then 26 else b10 i
theorem off_le : ∀ i, i < 10 → off i + ob i ≤ 256 := by decide
def opn (l : List UInt8) : Nat → List Nat
  | 0 => List.replicate 10 0
  | i + 1 => (opn l i).set i (nv l / 2 ^ off i % 2 ^ ob i)
theorem opn_len (l : List UInt8) (n : Nat) : (opn l n).length = 10 := by
  induction n with
  | zero => rfl
  | succ n ih => unfold opn; rw [List.length_set, ih]
theorem opn_later (l : List UInt8) (n i : Nat) (h : n ≤ i) (hi : i < 10) : (opn l n).getD i 0 = 0 := by
  induction n with
  | zero =>
    have hn : i = 0 ∨ i = 1 ∨ i = 2 ∨ i = 3 ∨ i = 4 ∨ i = 5 ∨ i = 6 ∨ i = 7 ∨ i = 8 ∨ i = 9 := by omega
    rcases hn with rfl | rfl | rfl | rfl | rfl | rfl | rfl | rfl | rfl | rfl <;> rfl
  | succ n ih =>
    unfold opn
    rw [getD_set_other _ _ _ _ (by omega)]
    exact ih (by omega)
theorem set_same (o : List Nat) (n : Nat) (h : n < o.length) : o.set n (o.getD n 0) = o := by
  rw [List.getD_eq_getElem?_getD, List.getElem?_eq_getElem h]
  exact List.set_getElem_self h
theorem opn_bit (l : List UInt8) (hl : l.length = 32) (at' k : Nat) : nv l / 2 ^ at' % 2 ^ (k + 1) = nv l / 2 ^ at' % 2 ^ k + 2 ^ k * bitL l (at' + k) := by
  rw [Nat.mod_pow_succ, Nat.div_div_eq_div_mul, ← Nat.pow_add, ← leb_bit, nv_leb l hl]

set_option maxRecDepth 40000 in
set_option maxHeartbeats 2000000 in
theorem Open_core (l : List UInt8) (w : World) (HL : Hid (l.length = 32))
    (HR : Hid (∀ w, Calls Try.prog 94 #[.agg (ics (opn l 10)).toArray] w (Gives (.agg (ics (cry (opn l 10) 10)).toArray) w))) :
    Calls Try.prog 68 #[.agg (bcs l).toArray] w (Gives (.agg (ics (cry (opn l 10) 10)).toArray) w) := by
  go_enter Try.func68, Try.ntmps68
  go_wp2_with (first | ((with_reducible show wpList _ _ _ (⟨some 1, .box 23 (.tmp 0), _, _, _, _⟩ :: _) _ _); go_must (refine wpList_box_row rfl 23 (.tmp 0) rfl (bcs l).toArray rfl ?_; intro w1 h1 z1 g1; have H1 := Lib.hid h1; have Z1 := Lib.hid z1; have G1 := Lib.hid g1; clear h1 z1 g1)) | ((with_reducible show wpList _ _ _ (⟨some 2, .alloc 65, _, _, _, _⟩ :: _) _ _); go_must (refine wpList_alloc_row rfl 65 rfl (.agg ziw) zero65 ?_; intro w2 h1 z1 g1; have H2 := Lib.hid h1; have Z2 := Lib.hid z1; have G2 := Lib.hid g1; clear h1 z1 g1)) | ((with_reducible show wpList _ _ _ (⟨some 3, .alloc 65, _, _, _, _⟩ :: _) _ _); go_must (refine wpList_alloc_row rfl 65 rfl (.agg ziw) zero65 ?_; intro w3 h1 z1 g1; have H3 := Lib.hid h1; have Z3 := Lib.hid z1; have G3 := Lib.hid g1; clear h1 z1 g1)))
  have S : Hid (Oy w l (opn l 0) w3) := Oy.start HL.out H1.out Z1.out G1.out H2.out Z2.out G2.out H3.out G3.out
  rw [show w2.heap.size = w.heap.size + 2 from by rw [Z2.out, Z1.out], show w1.heap.size = w.heap.size + 1 from Z1.out]
  clear H1 Z1 G1 H2 Z2 G2 H3 Z3 G3
  go_loopw [4, 5, 6, 7] (fun a i _ _ wr => ∃ n : Nat, n ≤ 10 ∧ a = .int .i64 (off n : Nat) ∧ i = .int .i64 n ∧ Oy w l (opn l n) wr) (fun _ i _ _ _ => 10 - (intOf i).toNat)
  case atStart => exact ⟨0, by omega, rfl, rfl, S.out⟩
  case round =>
    obtain ⟨n, hn, rfl, rfl, hp⟩ := hrel
    have H := Lib.hid hp
    clear hp S
    by_cases hlt : n < 10
    · have hni : (n : Int) < 10 := by omega
      have HBT := Lib.hid (bits_any n hlt)
      have HOB := off_le n hlt
      have HS : Hid (opn l (n + 1) = (opn l n).set n (nv l / 2 ^ off n % 2 ^ ob n)) := rfl
      have HZ := Lib.hid (opn_later l n n (Nat.le_refl _) hlt)
      have HLN := Lib.hid (opn_len l n)
      have HON : Hid (off (n + 1) = off n + b10 n) := rfl
      have hnb : b10 n ≤ 26 := by unfold b10; split <;> decide
      have hob : ob n = if n = 9 then 26 else b10 n := rfl
      generalize opn l n = oo at *
      generalize off n = st at *
      generalize b10 n = nb at *
      generalize ob n = N at *
      have hst : (st : Int) < 257 := by omega
      have hnbi : (nb : Int) < 27 := by omega
      go_wp2_with fail
      refine (HBT.out _).mono ?_
      rintro e x1 ⟨rfl, rfl⟩
      by_cases h9 : n = 9
      · rw [if_pos h9] at hob
        subst hob
        have HBT : Hid (∀ w, Calls Try.prog 95 #[.int .i64 9] w fun e w' => e = .returned (.int .u64 (nb : Nat)) ∧ w' = w) := by have h := HBT; rw [h9] at h; exact h
        subst h9
        go_wp2_with fail
        skip
        go_loopw [7] (fun j wi => ∃ m : Nat, m ≤ 26 ∧ j = .int .i64 m ∧ Oy w l (oo.set 9 (nv l / 2 ^ st % 2 ^ m)) wi) (fun j _ => 26 - (intOf j).toNat)
        case atStart => exact ⟨0, by omega, rfl, by rw [Nat.pow_zero, Nat.mod_one, ← HZ.out, set_same _ _ (by have := HLN.out; omega)]; exact H.out⟩
        case round =>
          obtain ⟨m, hm, rfl, hp⟩ := hrel
          have H1 := Lib.hid hp
          clear hp H
          by_cases hlm : m < 26
          · have hmi : (m : Int) < 26 := by omega
            have hsm : (st : Int) + (m : Int) < 256 := by omega
            have cb := H1.out.b.cell ((st + m) / 8) (by omega)
            have co := H1.out.o.cell 9 (by omega)
            rw [getD_set_eq _ _ _ (by have := HLN.out; omega)] at co
            have HBS := Lib.hid (opn_bit l HL.out st m)
            have HSS : Hid ((oo.set 9 (nv l / 2 ^ st % 2 ^ m)).set 9 (nv l / 2 ^ st % 2 ^ (m + 1)) = oo.set 9 (nv l / 2 ^ st % 2 ^ (m + 1))) := Lib.hid (by rw [List.set_set])
            have hpm : 2 ^ m ≤ 2 ^ 26 := Nat.pow_le_pow_right (by omega) (by omega)
            have HXB : Hid (nv l / 2 ^ st % 2 ^ m < 67108864) := Lib.hid (Nat.lt_of_lt_of_le (Nat.mod_lt _ (Nat.two_pow_pos m)) hpm)
            have HPM : Hid (((2 : Int) ^ m) = ((2 ^ m : Nat) : Int)) := Lib.hid (by simp)
            generalize hx : nv l / 2 ^ st % 2 ^ m = xx at *
            generalize hyd : nv l / 2 ^ st % 2 ^ (m + 1) = yy at *
            have hHT := H1.out.o.2
            obtain ⟨t, ht⟩ := hHT
            have HT := Lib.hid ht
            clear ht
            have HLS : Hid ((oo.set 9 xx).length = 10) := Lib.hid (by rw [List.length_set]; exact HLN.out)
            go_wp2_with (first | ((with_reducible show wpList _ _ _ (⟨none, .store 2 (.tmp 50) (.tmp 49), _, _, _, _⟩ :: _) _ _); go_must (refine wpList_store_one rfl 2 (.tmp 50) (.tmp 49) rfl (w.heap.size + 2) 9 rfl .i64 _ rfl t _ HT.out size2 (by simp only [List.size_toArray, ics_len]; have := HLS.out; omega) ?_; intro x5 hh hg hz; have HH := Lib.hid hh; have HG := Lib.hid hg; clear hh hg hz)) | fail)
            · rename ((((((l[(st + m) / 8]?.getD 0).toNat : Nat) : Int) / 2 ^ ((st + m) % 8)).tmod 2 == 1) = true) => h
              have hb1 : bitL l (st + m) = 1 := by rw [bit_int] at h; have := eq_of_beq h; omega
              have hyy : yy = xx + 2 ^ m := by rw [HBS.out, hb1, Nat.mul_one]
              have hh := HH.out
              have e : wrap64 ((xx : Int) + wrap64 (2 ^ m)) = ((xx + 2 ^ m : Nat) : Int) := by
                have := HXB.out
                rw [HPM.out]
                rw [IntWalk.wrap64_in ((2 ^ m : Nat) : Int) (by omega), IntWalk.wrap64_in _ (by omega)]
                omega
              rw [e, ← hyy, ics_set] at hh
              have H2 := H1.out.set HG.out 9 yy hh
              rw [HSS.out] at H2
              exact ⟨⟨m + 1, by omega, by go_num, by rw [hyd]; exact H2⟩, by simp [intOf]; omega⟩
            · rename ((((((l[(st + m) / 8]?.getD 0).toNat : Nat) : Int) / 2 ^ ((st + m) % 8)).tmod 2 == 1) = false) => h
              have hb1 : bitL l (st + m) = 0 := by
                rw [bit_int] at h
                have h2 := bitL_lt l (st + m)
                by_cases e : bitL l (st + m) = 1
                · rw [e] at h; exact absurd h (by decide)
                · omega
              have hyy : yy = xx := by rw [HBS.out, hb1, Nat.mul_zero, Nat.add_zero]
              exact ⟨⟨m + 1, by omega, by go_num, by rw [hyd, hyy]; exact H1.out⟩, by simp [intOf]; omega⟩
          · obtain rfl : m = 26 := by omega
            go_wp2_with fail
            refine (HBT.out _).mono ?_
            rintro e x6 ⟨rfl, rfl⟩
            go_wp2_with fail
            exact ⟨⟨9 + 1, by omega, by rw [HON.out]; go_num, by go_num, by rw [HS.out]; exact H1.out⟩, by first | (simp [intOf]; omega) | simp [intOf]⟩
      · rw [if_neg h9] at hob
        subst hob
        have h9i : ¬ (n : Int) = 9 := by omega
        go_wp2_with fail
        rw [show ((n : Int) == 9) = false from by simp; omega]
        go_loopw [7] (fun j wi => ∃ m : Nat, m ≤ N ∧ j = .int .i64 m ∧ Oy w l (oo.set n (nv l / 2 ^ st % 2 ^ m)) wi) (fun j _ => N - (intOf j).toNat)
        case atStart => exact ⟨0, by omega, rfl, by rw [Nat.pow_zero, Nat.mod_one, ← HZ.out, set_same _ _ (by have := HLN.out; omega)]; exact H.out⟩
        case round =>
          obtain ⟨m, hm, rfl, hp⟩ := hrel
          have H1 := Lib.hid hp
          clear hp H
          by_cases hlm : m < N
          · have hmi : (m : Int) < N := by omega
            have hsm : (st : Int) + (m : Int) < 256 := by omega
            have cb := H1.out.b.cell ((st + m) / 8) (by omega)
            have co := H1.out.o.cell n (by omega)
            rw [getD_set_eq _ _ _ (by have := HLN.out; omega)] at co
            have HBS := Lib.hid (opn_bit l HL.out st m)
            have HSS : Hid ((oo.set n (nv l / 2 ^ st % 2 ^ m)).set n (nv l / 2 ^ st % 2 ^ (m + 1)) = oo.set n (nv l / 2 ^ st % 2 ^ (m + 1))) := Lib.hid (by rw [List.set_set])
            have hpm : 2 ^ m ≤ 2 ^ 26 := Nat.pow_le_pow_right (by omega) (by omega)
            have HXB : Hid (nv l / 2 ^ st % 2 ^ m < 67108864) := Lib.hid (Nat.lt_of_lt_of_le (Nat.mod_lt _ (Nat.two_pow_pos m)) hpm)
            have HPM : Hid (((2 : Int) ^ m) = ((2 ^ m : Nat) : Int)) := Lib.hid (by simp)
            generalize hx : nv l / 2 ^ st % 2 ^ m = xx at *
            generalize hyd : nv l / 2 ^ st % 2 ^ (m + 1) = yy at *
            have hHT := H1.out.o.2
            obtain ⟨t, ht⟩ := hHT
            have HT := Lib.hid ht
            clear ht
            have HLS : Hid ((oo.set n xx).length = 10) := Lib.hid (by rw [List.length_set]; exact HLN.out)
            go_wp2_with (first | ((with_reducible show wpList _ _ _ (⟨none, .store 2 (.tmp 50) (.tmp 49), _, _, _, _⟩ :: _) _ _); go_must (refine wpList_store_one rfl 2 (.tmp 50) (.tmp 49) rfl (w.heap.size + 2) n rfl .i64 _ rfl t _ HT.out size2 (by simp only [List.size_toArray, ics_len]; have := HLS.out; omega) ?_; intro x5 hh hg hz; have HH := Lib.hid hh; have HG := Lib.hid hg; clear hh hg hz)) | fail)
            · rename ((((((l[(st + m) / 8]?.getD 0).toNat : Nat) : Int) / 2 ^ ((st + m) % 8)).tmod 2 == 1) = true) => h
              have hb1 : bitL l (st + m) = 1 := by rw [bit_int] at h; have := eq_of_beq h; omega
              have hyy : yy = xx + 2 ^ m := by rw [HBS.out, hb1, Nat.mul_one]
              have hh := HH.out
              have e : wrap64 ((xx : Int) + wrap64 (2 ^ m)) = ((xx + 2 ^ m : Nat) : Int) := by
                have := HXB.out
                rw [HPM.out]
                rw [IntWalk.wrap64_in ((2 ^ m : Nat) : Int) (by omega), IntWalk.wrap64_in _ (by omega)]
                omega
              rw [e, ← hyy, ics_set] at hh
              have H2 := H1.out.set HG.out n yy hh
              rw [HSS.out] at H2
              exact ⟨⟨m + 1, by omega, by go_num, by rw [hyd]; exact H2⟩, by simp [intOf]; omega⟩
            · rename ((((((l[(st + m) / 8]?.getD 0).toNat : Nat) : Int) / 2 ^ ((st + m) % 8)).tmod 2 == 1) = false) => h
              have hb1 : bitL l (st + m) = 0 := by
                rw [bit_int] at h
                have h2 := bitL_lt l (st + m)
                by_cases e : bitL l (st + m) = 1
                · rw [e] at h; exact absurd h (by decide)
                · omega
              have hyy : yy = xx := by rw [HBS.out, hb1, Nat.mul_zero, Nat.add_zero]
              exact ⟨⟨m + 1, by omega, by go_num, by rw [hyd, hyy]; exact H1.out⟩, by simp [intOf]; omega⟩
          · obtain rfl : m = N := by omega
            go_wp2_with fail
            refine (HBT.out _).mono ?_
            rintro e x6 ⟨rfl, rfl⟩
            go_wp2_with fail
            exact ⟨⟨n + 1, by omega, by rw [HON.out]; go_num, by go_num, by rw [HS.out]; exact H1.out⟩, by first | (simp [intOf]; omega) | simp [intOf]⟩
    · obtain rfl : n = 10 := by omega
      have HL1 : Hid ((cry (opn l 10) 10).length = 10) := Lib.hid ((cry_len _ _).trans H.out.o.1)
      have HLo : Hid ((opn l 10).length = 10) := H.out.o.1
      generalize cry (opn l 10) 10 = R at *
      generalize opn l 10 = on at *
      obtain ⟨t, ht⟩ := H.out.o.2
      have HT := Lib.hid ht
      clear ht
      go_wp2_with (first | ((with_reducible show wpList _ _ _ (⟨_, .load 65 (.tmp 3), _, _, _, _⟩ :: _) _ _); go_must (refine wpList_load_arr rfl 65 (.tmp 3) rfl (w.heap.size + 2) 0 rfl (ics on) (fun i u hu => by rw [Nat.zero_add]; exact row_cells HT.out i u (by simpa using hu)) _ under65 rfl (by rw [ics_len, HLo.out]; exact size65) ?_)) | fail)
      refine (HR.out _).mono ?_
      rintro e x4 ⟨rfl, hb⟩
      have H1 := Lib.hid (H.out.keep hb)
      clear hb H HR HT
      go_wp2_with (first | ((with_reducible show wpList _ _ _ (⟨none, .store 65 (.tmp 2) (.tmp 57), _, _, _, _⟩ :: _) _ _); go_must (refine wpList_store_all rfl 65 (.tmp 2) (.tmp 57) rfl (w.heap.size + 1) rfl (ics R).toArray rfl 65 _ H1.out.res (by rw [List.size_toArray, ics_len, HL1.out]; exact size65) (by rw [List.size_toArray, ics_len, HL1.out]; rfl) (ics_one _) ?_; intro x6 hh hg hz; have HH := Lib.hid hh; have HG := Lib.hid hg; clear hh hg hz)) | fail)
      refine bodyPost_ret (results_cell_row rfl _ _ (w.heap.size + 1) 65 (ics R).toArray _ _ rfl HH.out under65 rfl (by rw [List.size_toArray, ics_len, HL1.out]; exact size65)) rfl ?_
      exact ⟨rfl, H1.out.bel.grown HG.out H1.out.bel.size (fun r hr => by injection hr; omega)⟩
end Go.Proofs.Ytgdimnbdnepbgaa
/- The reference's Open as a number. No statement is proved here. -/
namespace Go.Proofs.Ytgdimnbdnepbgaa
open Go.RowKit
set_option linter.unusedVariables false
set_option maxRecDepth 40000
set_option linter.unusedSimpArgs false

theorem E_off : ∀ n, n < 10 → E10 n = 2 ^ off n := by decide +kernel
theorem opn_lt (l : List UInt8) (n : Nat) : n ≤ 10 → ∀ i, i < 10 → (opn l n).getD i 0 < 67108864 := by
  induction n with
  | zero =>
    intro _ i hi
    rw [opn_later l 0 i (by omega) hi]
    decide
  | succ n ih =>
    intro hn i hi
    unfold opn
    by_cases hin : n = i
    · subst hin
      rw [getD_set_eq _ _ _ (by rw [opn_len]; omega)]
      have ho : ob n ≤ 26 := by
        unfold ob b10
        split
        · decide
        · split <;> decide
      have hp : 2 ^ ob n ≤ 2 ^ 26 := Nat.pow_le_pow_right (by decide) ho
      exact Nat.lt_of_lt_of_le (Nat.mod_lt _ (Nat.two_pow_pos _)) hp
    · rw [getD_set_other _ _ _ _ hin]
      exact ih (by omega) i hi
theorem opn_step (l : List UInt8) (n : Nat) (hn : n < 10) (h : val10 (opn l n) = nv l % 2 ^ off n) : val10 (opn l (n + 1)) = nv l % 2 ^ (off n + ob n) := by
  have e : opn l (n + 1) = (opn l n).set n ((opn l n).getD n 0 + nv l / 2 ^ off n % 2 ^ ob n) := by
    rw [opn_later l n n (Nat.le_refl _) hn, Nat.zero_add]
    rfl
  rw [e, val10_add _ (opn_len l n) n _ hn, h, E_off n hn, Nat.pow_add, Nat.mod_mul, Nat.mul_comm]
theorem opn_val (l : List UInt8) (n : Nat) : n ≤ 9 → val10 (opn l n) = nv l % 2 ^ off n := by
  induction n with
  | zero =>
    intro _
    rw [show off 0 = 0 from rfl, Nat.pow_zero, Nat.mod_one]
    rfl
  | succ n ih =>
    intro hn
    rw [opn_step l n (by omega) (ih (by omega))]
    have : ob n = b10 n := by unfold ob; rw [if_neg (by omega)]
    rw [this]
    rfl
theorem opn_all (l : List UInt8) : val10 (opn l 10) = nv l := by
  rw [opn_step l 9 (by omega) (opn_val l 9 (by omega)), show off 9 + ob 9 = 256 from by decide]
  exact Nat.mod_eq_of_lt (nv_lt l)
theorem Open_gives (l : List UInt8) (hl : l.length = 32) : ∃ z, R10 z ∧ val10 z % PP = nv l % PP ∧ ∀ w, Calls Try.prog 68 #[.agg (bcs l).toArray] w (Gives (.agg (ics z).toArray) w) := by
  refine ⟨cry (opn l 10) 10, cry_R _ (opn_len l 10) 67108865 3 (fun i hi => ?_) (by decide) (by decide), ?_, fun w => ?_⟩
  · have := opn_lt l 10 (by omega) i hi; omega
  · rw [cry_res _ (opn_len l 10), opn_all]
  · refine Open_core l w (Lib.hid hl) (Lib.hid fun w => carry_any _ (opn_len l 10) (fun i hi => ?_) w)
    have := opn_lt l 10 (by omega) i hi; omega
end Go.Proofs.Ytgdimnbdnepbgaa
/- Carries that end: what Close's carries leave. No statement is proved here. -/
namespace Go.Proofs.Ytgdimnbdnepbgaa
open Go.RowKit
set_option linter.unusedVariables false
set_option maxRecDepth 40000
set_option linter.unusedSimpArgs false

/-- All words in their bits. -/
def X10 (o : List Nat) : Prop := o.length = 10 ∧ ∀ i, i < 10 → o.getD i 0 < m10 i
theorem cry_id (o : List Nat) (h : X10 o) : ∀ n, n ≤ 10 → cry o n = o
  | 0, _ => rfl
  | n + 1, hn => by
    have hl := h.1
    have hw := h.2 n (by omega)
    show cst (cry o n) n = o
    rw [cry_id o h n (by omega)]
    have e0 : o.getD n 0 % m10 n = o.getD n 0 := Nat.mod_eq_of_lt hw
    have e1 : o.getD n 0 / m10 n = 0 := Nat.div_eq_of_lt hw
    unfold cst
    by_cases h9 : n = 9
    · subst h9
      have f0 : o.getD 9 0 % 33554432 = o.getD 9 0 := e0
      have f1 : o.getD 9 0 / 33554432 = 0 := e1
      rw [if_pos rfl, f0, f1, set_same _ _ (by omega), Nat.mul_zero, Nat.add_zero]
      exact set_same _ _ (by omega)
    · rw [if_neg h9, e0, e1, set_same _ _ (by omega), Nat.add_zero]
      exact set_same _ _ (by omega)
/-- A carry of words of which only the lowest may be long by a little. -/
theorem cry_exact_at (o : List Nat) (h : o.length = 10) (h0 : o.getD 0 0 < 67109888) (hi : ∀ i, i < 10 → 0 < i → o.getD i 0 < m10 i) :
    ∀ n, n ≤ 9 → (∀ i, i < n → (cry o n).getD i 0 < m10 i) ∧ (0 < n → (cry o n).getD n 0 ≤ m10 n ∧ ((cry o n).getD n 0 < m10 n ∨ (cry o n).getD 0 0 < 1024))
  | 0, _ => ⟨fun i hi => absurd hi (by omega), fun h => absurd h (by omega)⟩
  | n + 1, hn => by
    obtain ⟨k1, k2⟩ := cry_exact_at o h h0 hi n (by omega)
    have hl : (cry o n).length = 10 := (cry_len o n).trans h
    have hlat : (cry o n).getD (n + 1) 0 < m10 (n + 1) := by rw [cry_later o n (n + 1) (by omega) (by omega)]; exact hi _ (by omega) (by omega)
    have hg := m10_ge n
    have hm : (cry o n).getD n 0 % m10 n < m10 n := Nat.mod_lt _ (by omega)
    have hn9 : n ≠ 9 := by omega
    show (∀ i, i < n + 1 → (cst (cry o n) n).getD i 0 < m10 i) ∧ (0 < n + 1 → (cst (cry o n) n).getD (n + 1) 0 ≤ m10 (n + 1) ∧ ((cst (cry o n) n).getD (n + 1) 0 < m10 (n + 1) ∨ (cst (cry o n) n).getD 0 0 < 1024))
    unfold cst
    rw [if_neg hn9]
    refine ⟨fun i hi => ?_, fun _ => ?_⟩
    · rw [getD_set_other _ _ _ _ (by omega)]
      by_cases hin : i = n
      · subst hin
        rw [getD_set_eq _ _ _ (by omega)]
        exact hm
      · rw [getD_set_other _ _ _ _ (by omega)]
        exact k1 i (by omega)
    · rw [getD_set_eq _ _ _ (by rw [List.length_set]; omega), getD_set_other _ (n + 1) 0 _ (by omega), getD_set_other _ n (n + 1) _ (by omega)]
      by_cases hn0 : n = 0
      · subst hn0
        rw [getD_set_eq _ _ _ (by omega)]
        have e : (cry o 0).getD 0 0 = o.getD 0 0 := rfl
        have em : m10 0 = 67108864 := rfl
        rw [e, em]
        omega
      · rw [getD_set_other _ _ _ _ hn0]
        obtain ⟨j1, j2⟩ := k2 (by omega)
        rcases j2 with j2 | j2
        · rw [Nat.div_eq_of_lt j2]
          omega
        · have hc : (cry o n).getD n 0 / m10 n ≤ 1 := by
            have : (cry o n).getD n 0 / m10 n < 2 := by rw [Nat.div_lt_iff_lt_mul (by omega)]; omega
            omega
          omega
theorem cry_exact (o : List Nat) (h : o.length = 10) (h0 : o.getD 0 0 < 67109888) (hi : ∀ i, i < 10 → 0 < i → o.getD i 0 < m10 i) : X10 (cry o 10) := by
  obtain ⟨k1, k2⟩ := cry_exact_at o h h0 hi 9 (Nat.le_refl _)
  obtain ⟨j1, j2⟩ := k2 (by omega)
  have hl : (cry o 9).length = 10 := (cry_len o 9).trans h
  refine ⟨(cry_len _ _).trans h, fun i hi => ?_⟩
  have e9 : m10 9 = 33554432 := rfl
  have e0 : m10 0 = 67108864 := rfl
  have k0 := k1 0 (by omega)
  rw [e9] at j1 j2
  rw [e0] at k0
  rw [cry_nine]
  by_cases hi0 : i = 0
  · subst hi0
    rw [getD_set_eq _ _ _ (by rw [List.length_set]; omega), e0]
    omega
  · rw [getD_set_other _ _ _ _ (by omega)]
    by_cases hi9 : i = 9
    · subst hi9
      rw [getD_set_eq _ _ _ (by omega), e9]
      omega
    · rw [getD_set_other _ _ _ _ (by omega)]
      exact k1 i (by omega)
/-- Four carries of a number: its words in their bits, below 2^255. -/
theorem cry4 (o : List Nat) (h : R10 o) : X10 (cry (cry o 10) 10) ∧ cry (cry (cry (cry o 10) 10) 10) 10 = cry (cry o 10) 10 := by
  obtain ⟨k1, _, _, k4⟩ := cry_bnd o h.1 67109889 5 (fun i hi => by have := (h.2 i hi).1; omega) (by decide) 10 (Nat.le_refl _)
  have hx : X10 (cry (cry o 10) 10) := cry_exact _ ((cry_len _ _).trans h.1) (by have := k4 rfl; omega) (fun i hi h0 => k1 i hi h0)
  exact ⟨hx, by rw [cry_id _ hx 10 (Nat.le_refl _), cry_id _ hx 10 (Nat.le_refl _)]⟩
theorem X10_val (o : List Nat) (h : X10 o) : val10 o < 57896044618658097711785492504343953926634992332820282019728792003956564819968 := by
  obtain ⟨hl, hw⟩ := h
  obtain ⟨a0, a1, a2, a3, a4, a5, a6, a7, a8, a9, rfl⟩ := ten o hl
  have w0 : a0 < 67108864 := hw 0 (by omega)
  have w1 : a1 < 33554432 := hw 1 (by omega)
  have w2 : a2 < 67108864 := hw 2 (by omega)
  have w3 : a3 < 33554432 := hw 3 (by omega)
  have w4 : a4 < 67108864 := hw 4 (by omega)
  have w5 : a5 < 33554432 := hw 5 (by omega)
  have w6 : a6 < 67108864 := hw 6 (by omega)
  have w7 : a7 < 33554432 := hw 7 (by omega)
  have w8 : a8 < 67108864 := hw 8 (by omega)
  have w9 : a9 < 33554432 := hw 9 (by omega)
  simp only [val10]
  omega
end Go.Proofs.Ytgdimnbdnepbgaa
/- Bytes of a number, one bit after the other: for the reference's Close. No statement is proved here. -/
namespace Go.Proofs.Ytgdimnbdnepbgaa
open Go.RowKit
set_option linter.unusedVariables false
set_option maxRecDepth 40000
set_option linter.unusedSimpArgs false

theorem leb_lt : ∀ l : List UInt8, leb l < 256 ^ l.length
  | [] => by simp [leb]
  | b :: t => by
    have ih := leb_lt t
    have hb := UInt8.toNat_lt b
    simp only [leb, List.length_cons, Nat.pow_succ]
    omega
theorem leb_byte : ∀ (l : List UInt8) (j : Nat), leb l / 256 ^ j % 256 = (l.getD j 0).toNat
  | [], j => by simp [leb]
  | b :: t, 0 => by
    have hb := UInt8.toNat_lt b
    simp only [leb, Nat.pow_zero, Nat.div_one, List.getD_cons_zero]
    omega
  | b :: t, j + 1 => by
    have ih := leb_byte t j
    have hb := UInt8.toNat_lt b
    rw [List.getD_cons_succ, ← ih, Nat.pow_succ, Nat.mul_comm, ← Nat.div_div_eq_div_mul]
    simp only [leb]
    rw [show (b.toNat + 256 * leb t) / 256 = leb t from by omega]
theorem leb_set : ∀ (l : List UInt8) (j : Nat) (b : UInt8), j < l.length → leb (l.set j b) + 256 ^ j * (l.getD j 0).toNat = leb l + 256 ^ j * b.toNat
  | [], j, b, h => absurd h (by simp)
  | c :: t, 0, b, h => by
    simp only [leb, List.set_cons_zero, List.getD_cons_zero, Nat.pow_zero]
    omega
  | c :: t, j + 1, b, h => by
    have ih := leb_set t j b (by simpa using h)
    simp only [leb, List.set_cons_succ, List.getD_cons_succ]
    rw [Nat.pow_succ, Nat.mul_comm (256 ^ j) 256, Nat.mul_assoc, Nat.mul_assoc]
    omega
theorem leb_inj (l : List UInt8) (h : l.length = 32) : l = enc (leb l) := by
  rw [← nv_leb l h, enc_nv l h]
/-- The byte that holds bit m of a number below 2^m has room for it. -/
theorem room (l : List UInt8) (m : Nat) (h : leb l < 2 ^ m) : (l.getD (m / 8) 0).toNat < 2 ^ (m % 8) := by
  rw [← leb_byte l (m / 8)]
  have e : (256 : Nat) ^ (m / 8) = 2 ^ (8 * (m / 8)) := by rw [Nat.pow_mul]
  rw [e]
  have hm : 2 ^ m = 2 ^ (m % 8) * 2 ^ (8 * (m / 8)) := by rw [← Nat.pow_add]; congr 1; omega
  rw [hm] at h
  have h2 : leb l / 2 ^ (8 * (m / 8)) < 2 ^ (m % 8) := by rw [Nat.div_lt_iff_lt_mul (Nat.two_pow_pos _)]; exact h
  exact Nat.lt_of_le_of_lt (Nat.mod_le _ _) h2
theorem byte_pow (m : Nat) : 2 ^ (m % 8) < 256 := Nat.lt_of_le_of_lt (Nat.pow_le_pow_right (by decide) (show m % 8 ≤ 7 by omega)) (by decide)
theorem put_bit (l : List UInt8) (hl : l.length = 32) (V m : Nat) (hm : m < 256) (h : leb l = V % 2 ^ m) (hb : V / 2 ^ m % 2 = 1) (c : Nat) (hc : c = (l.getD (m / 8) 0).toNat + 2 ^ (m % 8)) :
    c < 256 ∧ leb (l.set (m / 8) (UInt8.ofNat c)) = V % 2 ^ (m + 1) := by
  have hr := room l m (by rw [h]; exact Nat.mod_lt _ (Nat.two_pow_pos _))
  have h7 : 2 ^ (m % 8) ≤ 128 := Nat.pow_le_pow_right (by decide) (show m % 8 ≤ 7 by omega)
  have hc2 : c < 256 := by omega
  refine ⟨hc2, ?_⟩
  have hs := leb_set l (m / 8) (UInt8.ofNat c) (by omega)
  rw [of_byte, Nat.mod_eq_of_lt hc2] at hs
  have e : (256 : Nat) ^ (m / 8) = 2 ^ (8 * (m / 8)) := by rw [Nat.pow_mul]
  have hm2 : 2 ^ m = 2 ^ (8 * (m / 8)) * 2 ^ (m % 8) := by rw [← Nat.pow_add]; congr 1; omega
  subst hc
  rw [Nat.mul_add, ← Nat.add_assoc, e, ← hm2] at hs
  rw [Nat.mod_pow_succ, hb, Nat.mul_one, ← h]
  omega
theorem no_bit (V m : Nat) (hb : V / 2 ^ m % 2 = 0) : V % 2 ^ (m + 1) = V % 2 ^ m := by
  rw [Nat.mod_pow_succ, hb, Nat.mul_zero, Nat.add_zero]
/-- A word in its bits is its part of the number. -/
theorem X10_digit (o : List Nat) (h : X10 o) (n : Nat) (hn : n < 10) : val10 o / 2 ^ off n % 2 ^ b10 n = o.getD n 0 := by
  obtain ⟨hl, hw⟩ := h
  obtain ⟨a0, a1, a2, a3, a4, a5, a6, a7, a8, a9, rfl⟩ := ten o hl
  have w0 : a0 < 67108864 := hw 0 (by omega)
  have w1 : a1 < 33554432 := hw 1 (by omega)
  have w2 : a2 < 67108864 := hw 2 (by omega)
  have w3 : a3 < 33554432 := hw 3 (by omega)
  have w4 : a4 < 67108864 := hw 4 (by omega)
  have w5 : a5 < 33554432 := hw 5 (by omega)
  have w6 : a6 < 67108864 := hw 6 (by omega)
  have w7 : a7 < 33554432 := hw 7 (by omega)
  have w8 : a8 < 67108864 := hw 8 (by omega)
  have w9 : a9 < 33554432 := hw 9 (by omega)
  clear hw hl
  have hn10 : n = 0 ∨ n = 1 ∨ n = 2 ∨ n = 3 ∨ n = 4 ∨ n = 5 ∨ n = 6 ∨ n = 7 ∨ n = 8 ∨ n = 9 := by omega
  simp only [val10]
  rcases hn10 with rfl | rfl | rfl | rfl | rfl | rfl | rfl | rfl | rfl | rfl
  · show _ / 1 % 67108864 = a0; omega
  · show _ / 67108864 % 33554432 = a1; omega
  · show _ / 2251799813685248 % 67108864 = a2; omega
  · show _ / 151115727451828646838272 % 33554432 = a3; omega
  · show _ / 5070602400912917605986812821504 % 67108864 = a4; omega
  · show _ / 340282366920938463463374607431768211456 % 33554432 = a5; omega
  · show _ / 11417981541647679048466287755595961091061972992 % 67108864 = a6; omega
  · show _ / 766247770432944429179173513575154591809369561091801088 % 33554432 = a7; omega
  · show _ / 25711008708143844408671393477458601640355247900524685364822016 % 67108864 = a8; omega
  · show _ / 1725436586697640946858688965569256363112777243042596638790631055949824 % 33554432 = a9; omega
theorem X10_bit (o : List Nat) (h : X10 o) (n k : Nat) (hn : n < 10) (hk : k < b10 n) : val10 o / 2 ^ (off n + k) % 2 = o.getD n 0 / 2 ^ k % 2 := by
  rw [← X10_digit o h n hn, Nat.pow_add, ← Nat.div_div_eq_div_mul]
  generalize val10 o / 2 ^ off n = x
  obtain ⟨j, hj⟩ : ∃ j, b10 n = k + (j + 1) := ⟨b10 n - k - 1, by omega⟩
  rw [hj, Nat.pow_add, Nat.mod_mul, Nat.add_mul_div_left _ _ (Nat.two_pow_pos k), Nat.div_eq_of_lt (Nat.mod_lt _ (Nat.two_pow_pos k)), Nat.zero_add, Nat.pow_succ, Nat.mul_comm (2 ^ j) 2, Nat.mod_mul_right_mod]

theorem tops : ∀ r, r < 19 → enc (PP + r) = UInt8.ofNat (237 + r) :: (List.replicate 30 255 ++ [127]) := by decide +kernel
theorem top_of (l : List UInt8) (hl : l.length = 32) (hV : leb l < 57896044618658097711785492504343953926634992332820282019728792003956564819968) (h : ¬ leb l < PP) : ∃ r, r < 19 ∧ leb l = PP + r ∧ l = UInt8.ofNat (237 + r) :: (List.replicate 30 255 ++ [127]) := by
  unfold PP at h
  refine ⟨leb l - PP, by unfold PP; omega, by unfold PP; omega, ?_⟩
  have e := leb_inj l hl
  rw [← tops (leb l - PP) (by unfold PP; omega), show PP + (leb l - PP) = leb l from by unfold PP; omega, ← e]
theorem closeA (l : List UInt8) (hl : l.length = 32) (hV : leb l < 57896044618658097711785492504343953926634992332820282019728792003956564819968)
    (h : (l.getD 0 0).toNat < 237 ∨ (l.getD 31 0).toNat ≠ 127 ∨ ∃ i, 0 < i ∧ i < 31 ∧ (l.getD i 0).toNat ≠ 255) : l = enc (leb l % PP) := by
  by_cases hp : leb l < PP
  · rw [Nat.mod_eq_of_lt hp]; exact leb_inj l hl
  · obtain ⟨r, hr, _, e⟩ := top_of l hl hV hp
    rw [e] at h
    rcases h with h | h | ⟨i, h0, h1, h⟩
    · rw [List.getD_cons_zero, of_byte] at h
      omega
    · exact absurd rfl h
    · obtain ⟨j, rfl⟩ : ∃ j, i = j + 1 := ⟨i - 1, by omega⟩
      rw [List.getD_cons_succ, List.getD_eq_getElem?_getD, List.getElem?_append_left (by rw [List.length_replicate]; omega), List.getElem?_replicate, if_pos (by omega)] at h
      exact absurd rfl h
theorem closeB (l : List UInt8) (hl : l.length = 32) (h0 : ¬ (l.getD 0 0).toNat < 237) (h31 : (l.getD 31 0).toNat = 127) (hi : ∀ i, 0 < i → i < 31 → (l.getD i 0).toNat = 255) :
    enc (leb l % PP) = UInt8.ofNat ((l.getD 0 0).toNat - 237) :: List.replicate 31 0 := by
  have hb := UInt8.toNat_lt (l.getD 0 0)
  obtain ⟨r, hr⟩ : ∃ r, (l.getD 0 0).toNat = 237 + r := ⟨(l.getD 0 0).toNat - 237, by omega⟩
  have hr19 : r < 19 := by omega
  have e : l = enc (PP + r) := by
    rw [tops r hr19]
    apply List.ext_getElem
    · rw [hl]; rfl
    · intro i h1 h2
      have hg : (l.getD i 0) = l[i] := by rw [List.getD_eq_getElem?_getD, List.getElem?_eq_getElem h1]; rfl
      rw [← hg]
      apply UInt8.toNat_inj.1
      by_cases e0 : i = 0
      · subst e0
        rw [hr, List.getElem_cons_zero, of_byte]
        omega
      · by_cases e31 : i = 31
        · subst e31
          rw [h31]
          rfl
        · rw [hi i (by omega) (by omega)]
          obtain ⟨j, rfl⟩ : ∃ j, i = j + 1 := ⟨i - 1, by omega⟩
          rw [List.getElem_cons_succ, List.getElem_append_left (by rw [List.length_replicate]; omega), List.getElem_replicate]
          rfl
  have hv : leb l = PP + r := by rw [← nv_leb l hl, e, nv_enc _ (by unfold PP; omega)]
  rw [hv, Nat.add_mod_left, Nat.mod_eq_of_lt (by unfold PP; omega), hr, Nat.add_sub_cancel_left]
  have : ∀ r, r < 19 → enc r = UInt8.ofNat r :: List.replicate 31 0 := by decide +kernel
  exact this r hr19
end Go.Proofs.Ytgdimnbdnepbgaa
/- The reference's Close. No statement is proved here. -/
namespace Go.Proofs.Ytgdimnbdnepbgaa
open Go.RowKit
set_option linter.unusedVariables false
set_option maxRecDepth 40000
set_option linter.unusedSimpArgs false

/-- The memory of Close. -/
structure Cz (w : World) (g : Nat) (x : List Nat) (l : List UInt8) (w' : World) : Prop where
  hg : w.heap.size + 2 ≤ g
  x : IAt w' w.heap.size x
  res : w'.heap[w.heap.size + 1]? = some (.cells (zbs 32) 23 (0, 0))
  b : BAt w' g l
  bel : Below w.heap.size w w'
theorem Cz.set {w : World} {g : Nat} {x : List Nat} {l l' : List UInt8} {w' w'' : World} {t : TypeId} (h : Cz w g x l w') (hg : w'.grownBy w'' (some g)) (hl : l'.length = 32) (hh : w''.heap[g]? = some (.cells (bcs l').toArray t (0, 0))) : Cz w g x l' w'' :=
  ⟨h.hg, h.x.grown hg (by have := h.hg; simp; omega), (hg.block _ (Array.getElem?_eq_some_iff.1 h.res).1 (by have := h.hg; simp; omega)).trans h.res, ⟨hl, t, hh⟩, h.bel.grown hg h.bel.size (fun r hr => by have := h.hg; injection hr; omega)⟩
theorem Cz.start {w : World} {x : List Nat} {w1 w2 w3 w4 w5 : World} (hx : x.length = 10)
    (z1 : w1.heap.size = w.heap.size + 1) (g1 : w.grownBy w1 none)
    (h2 : w2.heap[w1.heap.size]? = some (.cells (zbs 32) 23 (0, 0))) (z2 : w2.heap.size = w1.heap.size + 1) (g2 : w1.grownBy w2 none)
    (b3 : Below w2.heap.size w2 w3)
    (h4 : w4.heap[w.heap.size]? = some (.cells (ics x).toArray 65 (0, 0))) (g4 : w3.grownBy w4 (some w.heap.size)) (z4 : w4.heap.size = w3.heap.size)
    (h5 : w5.heap[w4.heap.size]? = some (.cells (zbs 32) 23 (0, 0))) (g5 : w4.grownBy w5 none) : Cz w w4.heap.size x (List.replicate 32 0) w5 := by
  have b1 := below_of_grownBy g1
  have b2 := below_of_grownBy g2
  have b5 := below_of_grownBy g5
  rw [z1] at h2 b2 z2
  have b3s := b3.size
  rw [z2] at b3 b3s
  have k4 : Below w.heap.size w3 w4 := (Below.refl _ _).grown g4 (by omega) (fun r hr => by injection hr; omega)
  refine ⟨by omega, ⟨hx, 65, ?_⟩, ?_, ⟨rfl, 23, h5⟩, ?_⟩
  · exact (b5.block _ (by omega)).trans h4
  · exact (b5.block _ (by omega)).trans ((g4.block _ (by omega) (by simp)).trans ((b3.block _ (by omega)).trans h2))
  · exact b1.trans ((b2.mono (by omega)).trans ((b3.mono (by omega)).trans (k4.trans (b5.mono (by omega)))))

theorem put_int (a k : Nat) (h : a + 2 ^ k < 256) : ((a : Int) + 2 ^ k % 256) % 256 = ((a + 2 ^ k : Nat) : Int) := by
  rw [show ((2 : Int) ^ k) = ((2 ^ k : Nat) : Int) from by simp]
  generalize 2 ^ k = p at *
  omega
theorem run_build1 (n : Int) (w : World) : (Instr.build 23 #[(0, .int .u8 n)]).run Try.prog w = .ok (.agg (.int .u8 n :: List.replicate 31 (.int .u8 0)).toArray) w := by kernel_rfl
theorem exec_build1 {o : Oper} {a : Act} {w : World} (x : Operand) (n : Int) (v : Value) (ho : o.op = .build 23 #[(0, x)]) (hx : a.eval x = .int .u8 n) (hv : .agg (.int .u8 n :: List.replicate 31 (.int .u8 0)).toArray = v) : (execOp a.eval o).run Try.prog w = .ok (.value v) w := by
  unfold execOp
  simp only [ho, List.map_toArray, List.map_cons, List.map_nil, Sem.run_bind, Sem.run_pure, hx]
  rw [run_build1 n w, hv]
  rfl
theorem word_bit (x : List Nat) (n m : Nat) : (if (((((x[n]?.getD 0 : Nat) : Int) / 2 ^ m).tmod 2 == 1)) = true then 1 else 0) = x.getD n 0 / 2 ^ m % 2 := by
  rw [List.getD_eq_getElem?_getD, show ((2 : Int) ^ m) = ((2 ^ m : Nat) : Int) from by simp, ← Int.natCast_ediv]
  generalize x[n]?.getD 0 / 2 ^ m = z
  rw [show ((z : Int)).tmod 2 = ((z % 2 : Nat) : Int) from rfl]
  by_cases h : z % 2 = 1
  · rw [h]; rfl
  · have h0 : z % 2 = 0 := by omega
    rw [h0]; rfl
set_option maxHeartbeats 2000000 in
theorem Close_core (o c1 x : List Nat) (V : Nat) (w : World) (HL : Hid (o.length = 10)) (HL1 : Hid (c1.length = 10)) (HX : Hid (X10 x)) (HV : Hid (val10 x = V)) (HVB : Hid (V < 57896044618658097711785492504343953926634992332820282019728792003956564819968))
    (HR0 : Hid (∀ w, Calls Try.prog 94 #[.agg (ics o).toArray] w (Gives (.agg (ics c1).toArray) w)))
    (HR1 : Hid (∀ w, Calls Try.prog 94 #[.agg (ics c1).toArray] w (Gives (.agg (ics x).toArray) w)))
    (HR2 : Hid (∀ w, Calls Try.prog 94 #[.agg (ics x).toArray] w (Gives (.agg (ics x).toArray) w))) :
    Calls Try.prog 67 #[.agg (ics o).toArray] w (Gives (vN (V % PP)) w) := by
  have HXL : Hid (x.length = 10) := Lib.hid HX.out.1
  go_enter Try.func67, Try.ntmps67
  go_wp2_with (first | ((with_reducible show wpList _ _ _ (⟨some 1, .box 65 (.tmp 0), _, _, _, _⟩ :: _) _ _); go_must (refine wpList_box_row rfl 65 (.tmp 0) rfl (ics o).toArray rfl ?_; intro w1 h1 z1 g1; have H1 := Lib.hid h1; have Z1 := Lib.hid z1; have G1 := Lib.hid g1; clear h1 z1 g1)) | ((with_reducible show wpList _ _ _ (⟨some 2, .alloc 23, _, _, _, _⟩ :: _) _ _); go_must (refine wpList_alloc_row rfl 23 rfl (.agg (zbs 32)) zero23 ?_; intro w2 h1 z1 g1; have H2 := Lib.hid h1; have Z2 := Lib.hid z1; have G2 := Lib.hid g1; clear h1 z1 g1)) | ((with_reducible show wpList _ _ _ (⟨_, .load 65 (.tmp 1), _, _, _, _⟩ :: _) _ _); go_must (refine wpList_load_arr rfl 65 (.tmp 1) rfl w.heap.size 0 rfl (ics o) (fun i u hu => by rw [Nat.zero_add]; exact row_cells (((below_of_grownBy G2.out).block _ (by have := Z1.out; omega)).trans H1.out) i u (by simpa using hu)) _ under65 rfl (by rw [ics_len, HL.out]; exact size65) ?_)))
  refine (HR0.out _).mono ?_
  rintro e y1 ⟨rfl, hb⟩
  have B1 := Lib.hid hb
  clear hb
  go_wp2_with fail
  refine (HR1.out _).mono ?_
  rintro e y2 ⟨rfl, hb⟩
  have B2 := Lib.hid (B1.out.trans (hb.mono B1.out.size))
  clear hb B1
  go_wp2_with fail
  refine (HR2.out _).mono ?_
  rintro e y3 ⟨rfl, hb⟩
  have B3 := Lib.hid (B2.out.trans (hb.mono B2.out.size))
  clear hb B2
  go_wp2_with fail
  refine (HR2.out _).mono ?_
  rintro e y4 ⟨rfl, hb⟩
  have B4 := Lib.hid (B3.out.trans (hb.mono B3.out.size))
  clear hb B3
  have HW0 : Hid (y4.heap[w.heap.size]? = some (.cells (ics o).toArray 65 (0, 0))) := Lib.hid ((B4.out.block _ (by have := Z1.out; have := Z2.out; omega)).trans (((below_of_grownBy G2.out).block _ (by have := Z1.out; omega)).trans H1.out))
  go_wp2_with (first | ((with_reducible show wpList _ _ _ (⟨none, .store 65 (.tmp 1) (.tmp 12), _, _, _, _⟩ :: _) _ _); go_must (refine wpList_store_all rfl 65 (.tmp 1) (.tmp 12) rfl (w.heap.size) rfl (ics x).toArray rfl 65 _ HW0.out (by rw [List.size_toArray, ics_len, HXL.out]; exact size65) (by rw [List.size_toArray, List.size_toArray, ics_len, HXL.out, ics_len, HL.out]) (ics_one _) ?_; intro w4 hh hg hz; have HH4 := Lib.hid hh; have HG4 := Lib.hid hg; have HZ4 := Lib.hid hz; clear hh hg hz)) | ((with_reducible show wpList _ _ _ (⟨some 3, .alloc 23, _, _, _, _⟩ :: _) _ _); go_must (refine wpList_alloc_row rfl 23 rfl (.agg (zbs 32)) zero23 ?_; intro w5 h1 z1 g1; have H5 := Lib.hid h1; have Z5 := Lib.hid z1; have G5 := Lib.hid g1; clear h1 z1 g1)))
  have S : Hid (Cz w w4.heap.size x (List.replicate 32 0) w5) := Cz.start HXL.out Z1.out G1.out H2.out Z2.out G2.out B4.out HH4.out HG4.out HZ4.out H5.out G5.out
  have hgg := S.out.hg
  rw [show w1.heap.size = w.heap.size + 1 from Z1.out]
  clear H1 Z1 G1 H2 Z2 G2 HW0 HH4 HG4 HZ4 H5 Z5 G5 B4 HR0 HR1 HR2
  generalize w4.heap.size = g at *
  go_loopw [4, 5, 6] (fun a i _ wr => ∃ n : Nat, ∃ l : List UInt8, n ≤ 10 ∧ a = .int .i64 (off n : Nat) ∧ i = .int .i64 n ∧ leb l = V % 2 ^ off n ∧ Cz w g x l wr) (fun _ i _ _ => 10 - (intOf i).toNat)
  case atStart => exact ⟨0, _, by omega, rfl, rfl, (show leb (List.replicate 32 0) = V % 2 ^ 0 by rw [Nat.pow_zero, Nat.mod_one]; rfl), S.out⟩
  case round =>
    obtain ⟨n, l, hn, rfl, rfl, hv, hp⟩ := hrel
    have H := Lib.hid hp
    have HVL := Lib.hid hv
    clear hp S hv
    by_cases hlt : n < 10
    · have hni : (n : Int) < 10 := by omega
      have HBT := Lib.hid (bits_any n hlt)
      have HOB := off_le n hlt
      have HON : Hid (off (n + 1) = off n + b10 n) := rfl
      have HXB := Lib.hid (fun k hk => X10_bit x HX.out n k hlt hk)
      have HXW : Hid (x.getD n 0 < 67108864) := Lib.hid (Nat.lt_of_lt_of_le (HX.out.2 n hlt) (by unfold m10; split <;> decide))
      have hnb : b10 n ≤ 26 := by unfold b10; split <;> decide
      have hob : b10 n ≤ ob n := by unfold ob; split <;> omega
      rw [HV.out] at HXB
      generalize off n = st at *
      generalize b10 n = nb at *
      have hst : (st : Int) < 257 := by omega
      have hnbi : (nb : Int) < 27 := by omega
      go_wp2_with fail
      go_loopw [6] (fun j wi => ∃ m : Nat, ∃ l : List UInt8, m ≤ nb ∧ j = .int .i64 m ∧ leb l = V % 2 ^ (st + m) ∧ Cz w g x l wi) (fun j _ => nb - (intOf j).toNat)
      case atStart => exact ⟨0, l, by omega, rfl, HVL.out, H.out⟩
      case round =>
        obtain ⟨m, l, hm, rfl, hv, hp⟩ := hrel
        have H1 := Lib.hid hp
        have HVM := Lib.hid hv
        clear hp H hv HVL
        by_cases hlm : m < nb
        · have hmi : (m : Int) < nb := by omega
          have hsm : (st : Int) + (m : Int) < 256 := by omega
          have cb := H1.out.b.cell ((st + m) / 8) (by omega)
          have cx := H1.out.x.cell n (by omega)
          obtain ⟨t, ht⟩ := H1.out.b.2
          have HT := Lib.hid ht
          clear ht
          have HBL : Hid (l.length = 32) := H1.out.b.1
          go_wp2_with fail
          refine (HBT.out _).mono ?_
          rintro e x1 ⟨rfl, rfl⟩
          go_wp2_with (first | ((with_reducible show wpList _ _ _ (⟨none, .store 5 (.tmp 49) (.tmp 48), _, _, _, _⟩ :: _) _ _); go_must (refine wpList_store_one rfl 5 (.tmp 49) (.tmp 48) rfl g ((st + m) / 8) rfl .u8 _ rfl t _ HT.out size5 (by simp only [List.size_toArray, bcs_len]; have := HBL.out; omega) ?_; intro x5 hh hg hz; have HH := Lib.hid hh; have HG := Lib.hid hg; clear hh hg hz)) | fail)
          · rename (((((x[n]?.getD 0 : Nat) : Int) / 2 ^ m).tmod 2 == 1) = true) => h
            have hb1 : V / 2 ^ (st + m) % 2 = 1 := by
              rw [HXB.out m hlm, ← word_bit, h]
              rfl
            have hq := put_bit l HBL.out V (st + m) (by omega) HVM.out hb1 _ rfl
            have hh := HH.out
            have hp2 := byte_pow (st + m)
            have hq1 := hq.1
            have hq2 := hq.2
            rw [List.getD_eq_getElem?_getD] at hq1 hq2
            have e := put_int (l[(st + m) / 8]?.getD 0).toNat ((st + m) % 8) hq1
            rw [e] at hh
            generalize hc : (l[(st + m) / 8]?.getD 0).toNat + 2 ^ ((st + m) % 8) = c at *
            have e2 : (Value.int IntKind.u8 (c : Int)) = bc (UInt8.ofNat c) := by unfold bc; rw [of_byte, Nat.mod_eq_of_lt hq1]
            rw [e2, bcs_put] at hh
            exact ⟨⟨m + 1, _, by omega, by go_num, by rw [← Nat.add_assoc]; exact hq2, H1.out.set HG.out (by rw [List.length_set]; exact HBL.out) hh⟩, by simp [intOf]; omega⟩
          · rename (((((x[n]?.getD 0 : Nat) : Int) / 2 ^ m).tmod 2 == 1) = false) => h
            have hb0 : V / 2 ^ (st + m) % 2 = 0 := by
              rw [HXB.out m hlm, ← word_bit, h]
              rfl
            exact ⟨⟨m + 1, l, by omega, by go_num, by rw [HVM.out]; exact (no_bit V (st + m) hb0).symm, H1.out⟩, by simp [intOf]; omega⟩
        · obtain rfl : m = nb := by omega
          go_wp2_with fail
          refine (HBT.out _).mono ?_
          rintro e x1 ⟨rfl, rfl⟩
          go_wp2_with fail
          refine (HBT.out _).mono ?_
          rintro e x1 ⟨rfl, rfl⟩
          go_wp2_with fail
          exact ⟨⟨n + 1, l, by omega, by rw [HON.out]; go_num, by go_num, by rw [HON.out]; exact HVM.out, H1.out⟩, by first | (simp [intOf]; omega) | simp [intOf]⟩
    · obtain rfl : n = 10 := by omega
      have hV : leb l = V := by
        rw [HVL.out]
        exact Nat.mod_eq_of_lt HVB.out
      have HVE := Lib.hid hV
      have HBL : Hid (l.length = 32) := H.out.b.1
      have c0 := H.out.b.cell 0 (by omega)
      have c31 := H.out.b.cell 31 (by omega)
      obtain ⟨t, ht⟩ := H.out.b.2
      have HT := Lib.hid ht
      clear ht HVL hV
      have HLA := Lib.hid (closeA l HBL.out (by rw [HVE.out]; exact HVB.out))
      have HLB := Lib.hid (closeB l HBL.out)
      rw [HVE.out] at HLA HLB
      generalize hb0 : (l.getD 0 0).toNat = b0 at *
      generalize hb31 : (l.getD 31 0).toNat = b31 at *
      have HB0 := Lib.hid hb0
      have HB31 := Lib.hid hb31
      clear hb0 hb31
      by_cases h0 : b0 < 237
      · have h0i : (b0 : Int) < 237 := by omega
        have HR : Hid (vN (V % PP) = .agg (bcs l).toArray) := by have h := HLA.out (Or.inl h0); unfold vN; rw [← h]; exact Lib.hid rfl
        go_wp2_with (first | ((with_reducible show wpList _ _ _ (⟨_, .load 23 (.tmp 3), _, _, _, _⟩ :: _) _ _); go_must (refine wpList_load_arr rfl 23 (.tmp 3) rfl g 0 rfl (bcs l) (fun i u hu => by rw [Nat.zero_add]; exact row_cells HT.out i u (by simpa using hu)) _ under23 rfl (by rw [bcs_len, HBL.out]; exact size23) ?_)) | ((with_reducible show wpList _ _ _ (⟨none, .store 23 (.tmp 2) (.tmp 63), _, _, _, _⟩ :: _) _ _); go_must (refine wpList_store_all rfl 23 (.tmp 2) (.tmp 63) rfl (w.heap.size + 1) rfl (bcs l).toArray rfl 23 _ H.out.res (by rw [List.size_toArray, bcs_len, HBL.out]; exact size23) (by rw [List.size_toArray, bcs_len, HBL.out]; rfl) (bcs_one _) ?_; intro x5 hh hg hz; have HH := Lib.hid hh; have HG := Lib.hid hg; clear hh hg hz)) | fail)
        refine bodyPost_ret (results_cell_row rfl _ _ (w.heap.size + 1) 23 (bcs l).toArray _ _ rfl HH.out under23 rfl (by rw [List.size_toArray, bcs_len, HBL.out]; exact size23)) rfl ?_
        exact ⟨by rw [HR.out], H.out.bel.grown HG.out H.out.bel.size (fun r hr => by injection hr; omega)⟩
      · have h0i : ¬ (b0 : Int) < 237 := by omega
        have h0j : (237 : Int) ≤ (b0 : Int) := by omega
        by_cases h31 : b31 = 127
        · have h31i : ((b31 : Int) != 127) = false := by rw [h31]; rfl
          go_wp2_with fail
          go_loopw [7] (fun j wi => ∃ m : Nat, m ≤ 31 ∧ j = .int .i64 m ∧ 0 < m ∧ (∀ i, 0 < i → i < m → (l.getD i 0).toNat = 255) ∧ Cz w g x l wi) (fun j _ => 31 - (intOf j).toNat)
          case atStart => exact ⟨1, by omega, rfl, by omega, fun i h0 h1 => absurd h1 (by omega), H.out⟩
          case round =>
            obtain ⟨m, hm, rfl, hm0, hall, hp⟩ := hrel
            have H1 := Lib.hid hp
            have HAll := Lib.hid hall
            obtain ⟨t2, ht2⟩ := H1.out.b.2
            have HT := Lib.hid ht2
            clear hp H hall c0 c31 ht2
            by_cases hlm : m < 31
            · have hmi : (m : Int) < 31 := by omega
              have cm := H1.out.b.cell m (by omega)
              generalize hbm : (l.getD m 0).toNat = bm at cm
              have HBM := Lib.hid hbm
              clear hbm
              by_cases h255 : bm = 255
              · have hi : ((bm : Int) != 255) = false := by rw [h255]; rfl
                go_wp2_with fail
                exact ⟨⟨m + 1, by omega, by go_num, by omega, fun i h0 h1 => by
                  by_cases e : i = m
                  · rw [e, HBM.out, h255]
                  · exact HAll.out i h0 (by omega), H1.out⟩, by simp [intOf]; omega⟩
              · have hi : ((bm : Int) != 255) = true := by simp; omega
                have HR : Hid (vN (V % PP) = .agg (bcs l).toArray) := by have h := HLA.out (Or.inr (Or.inr ⟨m, hm0, hlm, by rw [HBM.out]; exact h255⟩)); unfold vN; rw [← h]; exact Lib.hid rfl
                go_wp2_with (first | ((with_reducible show wpList _ _ _ (⟨_, .load 23 (.tmp 3), _, _, _, _⟩ :: _) _ _); go_must (refine wpList_load_arr rfl 23 (.tmp 3) rfl g 0 rfl (bcs l) (fun i u hu => by rw [Nat.zero_add]; exact row_cells HT.out i u (by simpa using hu)) _ under23 rfl (by rw [bcs_len, HBL.out]; exact size23) ?_)) | ((with_reducible show wpList _ _ _ (⟨none, .store 23 (.tmp 2) (.tmp 72), _, _, _, _⟩ :: _) _ _); go_must (refine wpList_store_all rfl 23 (.tmp 2) (.tmp 72) rfl (w.heap.size + 1) rfl (bcs l).toArray rfl 23 _ H1.out.res (by rw [List.size_toArray, bcs_len, HBL.out]; exact size23) (by rw [List.size_toArray, bcs_len, HBL.out]; rfl) (bcs_one _) ?_; intro x5 hh hg hz; have HH := Lib.hid hh; have HG := Lib.hid hg; clear hh hg hz)) | fail)
                refine bodyPost_ret (results_cell_row rfl _ _ (w.heap.size + 1) 23 (bcs l).toArray _ _ rfl HH.out under23 rfl (by rw [List.size_toArray, bcs_len, HBL.out]; exact size23)) rfl ?_
                exact ⟨by rw [HR.out], H1.out.bel.grown HG.out H1.out.bel.size (fun r hr => by injection hr; omega)⟩
            · obtain rfl : m = 31 := by omega
              have c0 := H1.out.b.cell 0 (by omega)
              rw [HB0.out] at c0
              have hsub : IntKind.u8.wrap ((b0 : Int) - 237) = ((b0 - 237 : Nat) : Int) := by
                have hb0 : b0 < 256 := by rw [← HB0.out]; exact UInt8.toNat_lt _
                show ((b0 : Int) - 237) % 256 = _
                omega
              have HBV : Hid (Value.agg (Value.int IntKind.u8 ((b0 - 237 : Nat) : Int) :: List.replicate 31 (Value.int IntKind.u8 0)).toArray = vN (V % PP)) := by
                have h := HLB.out h0 h31 HAll.out
                have hb0 : b0 - 237 < 256 := by have := UInt8.toNat_lt (l.getD 0 0); have := HB0.out; omega
                unfold vN
                rw [h]
                show _ = Value.agg (bc (UInt8.ofNat (b0 - 237)) :: bcs (List.replicate 31 0)).toArray
                unfold bc
                rw [of_byte, Nat.mod_eq_of_lt hb0]
                exact Lib.hid rfl
              obtain ⟨L, hL⟩ : ∃ L, L = enc (V % PP) := ⟨_, rfl⟩
              have HLL : Hid (L.length = 32) := by rw [hL]; exact enc_len _
              have HLE : Hid (Value.agg (bcs L).toArray = vN (V % PP)) := by rw [hL]; rfl
              rw [← HLE.out] at HBV
              clear hL
              go_wp2_with (first | ((with_reducible show wpList _ _ _ (⟨_, .build 23 _, _, _, _, _⟩ :: _) _ _); go_must (refine wpList_exec rfl (.agg (bcs L).toArray) (exec_build1 (.tmp 75) ((b0 - 237 : Nat) : Int) _ rfl rfl HBV.out) ?_)) | ((with_reducible show wpList _ _ _ (⟨none, .store 23 (.tmp 2) (.tmp 76), _, _, _, _⟩ :: _) _ _); go_must (refine wpList_store_all rfl 23 (.tmp 2) (.tmp 76) rfl (w.heap.size + 1) rfl (bcs L).toArray rfl 23 _ H1.out.res (by rw [List.size_toArray, bcs_len, HLL.out]; exact size23) (by rw [List.size_toArray, bcs_len, HLL.out]; rfl) (bcs_one _) ?_; intro x5 hh hg hz; have HH := Lib.hid hh; have HG := Lib.hid hg; clear hh hg hz)) | fail)
              refine bodyPost_ret (results_cell_row rfl _ _ (w.heap.size + 1) 23 (bcs L).toArray _ _ rfl HH.out under23 rfl (by rw [List.size_toArray, bcs_len, HLL.out]; exact size23)) rfl ?_
              exact ⟨by rw [HLE.out], H1.out.bel.grown HG.out H1.out.bel.size (fun r hr => by injection hr; omega)⟩
        · have h31i : ((b31 : Int) != 127) = true := by simp; omega
          have HR : Hid (vN (V % PP) = .agg (bcs l).toArray) := by have h := HLA.out (Or.inr (Or.inl h31)); unfold vN; rw [← h]; exact Lib.hid rfl
          go_wp2_with (first | ((with_reducible show wpList _ _ _ (⟨_, .load 23 (.tmp 3), _, _, _, _⟩ :: _) _ _); go_must (refine wpList_load_arr rfl 23 (.tmp 3) rfl g 0 rfl (bcs l) (fun i u hu => by rw [Nat.zero_add]; exact row_cells HT.out i u (by simpa using hu)) _ under23 rfl (by rw [bcs_len, HBL.out]; exact size23) ?_)) | ((with_reducible show wpList _ _ _ (⟨none, .store 23 (.tmp 2) (.tmp 63), _, _, _, _⟩ :: _) _ _); go_must (refine wpList_store_all rfl 23 (.tmp 2) (.tmp 63) rfl (w.heap.size + 1) rfl (bcs l).toArray rfl 23 _ H.out.res (by rw [List.size_toArray, bcs_len, HBL.out]; exact size23) (by rw [List.size_toArray, bcs_len, HBL.out]; rfl) (bcs_one _) ?_; intro x5 hh hg hz; have HH := Lib.hid hh; have HG := Lib.hid hg; clear hh hg hz)) | fail)
          refine bodyPost_ret (results_cell_row rfl _ _ (w.heap.size + 1) 23 (bcs l).toArray _ _ rfl HH.out under23 rfl (by rw [List.size_toArray, bcs_len, HBL.out]; exact size23)) rfl ?_
          exact ⟨by rw [HR.out], H.out.bel.grown HG.out H.out.bel.size (fun r hr => by injection hr; omega)⟩

theorem Close_gives (o : List Nat) (h : R10 o) (w : World) : Calls Try.prog 67 #[.agg (ics o).toArray] w (Gives (vN (val10 o % PP)) w) := by
  obtain ⟨hx, h2⟩ := cry4 o h
  have l1 : (cry o 10).length = 10 := (cry_len _ _).trans h.1
  have hs : ∀ z : List Nat, X10 z → ∀ i, i < 10 → z.getD i 0 < 4611686018427387904 := fun z hz i hi => by
    have := hz.2 i hi
    have : m10 i ≤ 67108864 := by unfold m10; split <;> decide
    omega
  have e : cry (cry (cry o 10) 10) 10 = cry (cry o 10) 10 := cry_id _ hx 10 (Nat.le_refl _)
  have k := Close_core o (cry o 10) (cry (cry o 10) 10) _ w (Lib.hid h.1) (Lib.hid l1) (Lib.hid hx) (Lib.hid rfl) (Lib.hid (X10_val _ hx))
    (Lib.hid fun w => carry_any o h.1 (fun i hi => by have := (h.2 i hi).1; omega) w)
    (Lib.hid fun w => carry_any _ l1 (fun i hi => ?_) w)
    (Lib.hid fun w => by
      have q := carry_any (cry (cry o 10) 10) hx.1 (hs _ hx) w
      rw [e] at q
      exact q)
  · rw [cry_res _ l1, cry_res _ h.1] at k
    exact k
  · obtain ⟨k1, _, _, k4⟩ := cry_bnd o h.1 67109889 5 (fun i hi => by have := (h.2 i hi).1; omega) (by decide) 10 (Nat.le_refl _)
    by_cases h0 : i = 0
    · subst h0
      have := k4 rfl
      omega
    · have := k1 i hi (by omega)
      have : m10 i ≤ 67108864 := by unfold m10; split <;> decide
      omega
end Go.Proofs.Ytgdimnbdnepbgaa
/- The reference's Rest and Canon. No statement is proved here. -/
namespace Go.Proofs.Ytgdimnbdnepbgaa
open Go.RowKit
set_option linter.unusedVariables false
set_option maxRecDepth 40000
set_option linter.unusedSimpArgs false

set_option maxHeartbeats 400000 in
theorem rRest_core (a r : Nat) (z : List Nat) (w : World) (HO : Hid (∀ w, Calls Try.prog 68 #[vN a] w (Gives (.agg (ics z).toArray) w))) (HC : Hid (∀ w, Calls Try.prog 67 #[.agg (ics z).toArray] w (Gives (vN r) w))) :
    Calls Try.prog 14 #[vN a] w (Gives (vN r) w) := by
  go_enter Try.func14, Try.ntmps14
  go_wp2_with (first | ((with_reducible show wpList _ _ _ (⟨some 1, .box 23 (.tmp 0), _, _, _, _⟩ :: _) _ _); go_must (refine wpList_box_row rfl 23 (.tmp 0) rfl (bcs (enc a)).toArray rfl ?_; intro w1 h1 z1 g1; have H1 := Lib.hid h1; have Z1 := Lib.hid z1; have G1 := Lib.hid g1; clear h1 z1 g1)) | ((with_reducible show wpList _ _ _ (⟨some 2, .alloc 23, _, _, _, _⟩ :: _) _ _); go_must (refine wpList_alloc_row rfl 23 rfl (.agg (zbs 32)) zero23 ?_; intro w2 h1 z1 g1; have H2 := Lib.hid h1; have Z2 := Lib.hid z1; have G2 := Lib.hid g1; clear h1 z1 g1; have R : Hid (NAt w2 w.heap.size a) := NAt.grown ⟨23, H1.out⟩ G2.out (by simp))) | ((with_reducible show wpList _ _ _ (⟨_, .load 23 (.tmp 1), _, _, _, _⟩ :: _) _ _); go_must (refine wpList_exec rfl (vN a) (exec_load23 (.tmp 1) rfl (w.heap.size) a rfl R.out) ?_)))
  have HB : Hid (Below w.heap.size w w2) := (below_of_grownBy G1.out).trans ((below_of_grownBy G2.out).mono (by have := Z1.out; omega))
  have HR2 : Hid (ZAt w2 (w.heap.size + 1)) := by
    have h := H2.out
    rw [Z1.out] at h
    exact h
  rw [show w1.heap.size = w.heap.size + 1 from Z1.out]
  clear H1 Z1 G1 H2 Z2 G2 R
  refine (HO.out _).mono ?_
  rintro e x3 ⟨rfl, hb⟩
  have HR3 := Lib.hid (HR2.out.keep hb)
  have HB3 := Lib.hid (HB.out.trans (hb.mono HB.out.size))
  clear hb HB HR2 HO
  go_wp2_with fail
  refine (HC.out _).mono ?_
  rintro e x4 ⟨rfl, hb⟩
  have HRow : Hid (x4.heap[w.heap.size + 1]? = some (.cells (zbs 32) 23 (0, 0))) := HR3.out.keep hb
  have HBel := Lib.hid (HB3.out.trans (hb.mono HB3.out.size))
  clear hb HB3 HR3 HC
  go_wp2_with ((with_reducible show wpList _ _ _ (⟨none, .store 23 (.tmp 2) (.tmp 5), _, _, _, _⟩ :: _) _ _); go_must (refine wpList_store_all rfl 23 (.tmp 2) (.tmp 5) rfl (w.heap.size + 1) rfl (bcs (enc r)).toArray rfl 23 _ HRow.out (by rw [List.size_toArray, bcs_enc_len]; exact size23) (by rw [List.size_toArray, bcs_enc_len]; rfl) (bcs_one _) ?_; intro x5 hh hg hz; have HH := Lib.hid hh; have HG := Lib.hid hg; clear hh hg hz))
  refine bodyPost_ret (results_cell_row rfl _ _ (w.heap.size + 1) 23 (bcs (enc r)).toArray _ _ rfl HH.out under23 rfl (by rw [List.size_toArray, bcs_enc_len]; exact size23)) rfl ?_
  exact ⟨rfl, HBel.out.grown HG.out HBel.out.size (fun r hr => by injection hr; omega)⟩

set_option maxHeartbeats 400000 in
theorem rCanon_core (a r : Nat) (b : Bool) (w : World) (H11 : Hid (∀ w, Calls Try.prog 14 #[vN a] w (Gives (vN r) w))) (HE : Hid (∀ w, (Op.equalIn 10000 23 (vN r) (vN a)).run Try.prog w = .ok b w)) :
    Calls Try.prog 16 #[vN a] w (Gives (.bool b) w) := by
  go_enter Try.func16, Try.ntmps16
  go_wp2_with ((with_reducible show wpList _ _ _ (⟨some 1, .box 23 (.tmp 0), _, _, _, _⟩ :: _) _ _); go_must (refine wpList_box_row rfl 23 (.tmp 0) rfl (bcs (enc a)).toArray rfl ?_; intro w1 h1 z1 g1; have H1 := Lib.hid h1; have Z1 := Lib.hid z1; have G1 := Lib.hid g1; clear h1 z1 g1))
  have R : Hid (NAt w1 w.heap.size a) := ⟨23, H1.out⟩
  have HB : Hid (Below w.heap.size w w1) := below_of_grownBy G1.out
  clear H1 Z1 G1
  refine region_wq (by kernel_rfl) (by kernel_rfl) ?_
  refine wq_load rfl (.tmp 1) rfl (w.heap.size) a rfl R.out ?_
  simp only [Act.put, List.setIfInBounds_toArray, List.set_cons_zero, List.set_cons_succ]
  refine wq_call rfl 14 [.tmp 3] #[23] rfl [vN a] rfl (CG14 _) (vN r) H11.out ?_
  simp only [Act.put, List.setIfInBounds_toArray, List.set_cons_zero, List.set_cons_succ]
  refine wq_load rfl (.tmp 1) rfl (w.heap.size) a rfl R.out ?_
  simp only [Act.put, List.setIfInBounds_toArray, List.set_cons_zero, List.set_cons_succ]
  refine wq_eq rfl (.tmp 4) (.tmp 5) rfl r a rfl rfl b HE.out ?_
  simp only [Act.put, List.setIfInBounds_toArray, List.set_cons_zero, List.set_cons_succ]
  refine wq_assign rfl (.tmp 6) rfl (.bool b) rfl ?_
  simp only [Act.put, List.setIfInBounds_toArray, List.set_cons_zero, List.set_cons_succ]
  refine wq_nil ?_
  intro w2 hb
  have HB2 : Hid (Below w.heap.size w w2) := HB.out.trans (hb.mono HB.out.size)
  clear hb HB
  go_wp2
  go_ret
  exact ⟨rfl, HB2.out⟩

theorem rOpen (a : Nat) (ha : a < TT) : ∃ z, R10 z ∧ val10 z % PP = a % PP ∧ ∀ w, Calls Try.prog 68 #[vN a] w (Gives (.agg (ics z).toArray) w) := by
  obtain ⟨z, h1, h2, h3⟩ := Open_gives (enc a) (enc_len a)
  rw [nv_enc a ha] at h2
  exact ⟨z, h1, h2, h3⟩
theorem rRest_any (a : Nat) (ha : a < TT) (w : World) : Calls Try.prog 14 #[vN a] w (Gives (vN (a % PP)) w) := by
  obtain ⟨z, h1, h2, h3⟩ := rOpen a ha
  rw [← h2]
  exact rRest_core a _ z w (Lib.hid h3) (Lib.hid fun w => Close_gives z h1 w)
theorem rCanon_any (a : Nat) (ha : a < TT) (w : World) : Calls Try.prog 16 #[vN a] w (Gives (.bool (decide (a = a % PP))) w) := by
  have h := rCanon_core a (a % PP) _ w (Lib.hid fun w => rRest_any a ha w) (Lib.hid fun w => eqN _ a (modT a) ha w)
  rw [show decide (a % PP = a) = decide (a = a % PP) from by simp [eq_comm]] at h
  exact h
end Go.Proofs.Ytgdimnbdnepbgaa
/- The reference's Of and shifted. No statement is proved here. -/
namespace Go.Proofs.Ytgdimnbdnepbgaa
open Go.RowKit
set_option linter.unusedVariables false
set_option maxRecDepth 40000
set_option linter.unusedSimpArgs false

/-- The memory of Of and shifted. -/
structure Sz (w : World) (l : List UInt8) (w' : World) : Prop where
  res : w'.heap[w.heap.size]? = some (.cells (zbs 32) 23 (0, 0))
  b : BAt w' (w.heap.size + 1) l
  bel : Below w.heap.size w w'
theorem Sz.set {w : World} {l l' : List UInt8} {w' w'' : World} {t : TypeId} (h : Sz w l w') (hg : w'.grownBy w'' (some (w.heap.size + 1))) (hl : l'.length = 32) (hh : w''.heap[w.heap.size + 1]? = some (.cells (bcs l').toArray t (0, 0))) : Sz w l' w'' :=
  ⟨(hg.block _ (Array.getElem?_eq_some_iff.1 h.res).1 (by simp)).trans h.res, ⟨hl, t, hh⟩, h.bel.grown hg h.bel.size (fun r hr => by injection hr; omega)⟩
theorem Sz.start {w w1 w2 : World} (h1 : w1.heap[w.heap.size]? = some (.cells (zbs 32) 23 (0, 0))) (z1 : w1.heap.size = w.heap.size + 1) (g1 : w.grownBy w1 none)
    (h2 : w2.heap[w1.heap.size]? = some (.cells (zbs 32) 23 (0, 0))) (g2 : w1.grownBy w2 none) : Sz w (List.replicate 32 0) w2 := by
  have b1 := below_of_grownBy g1
  have b2 := below_of_grownBy g2
  rw [z1] at h2 b2
  exact ⟨(b2.block _ (by omega)).trans h1, ⟨rfl, 23, h2⟩, b1.trans (b2.mono (by omega))⟩
theorem bytes_eq (l : List UInt8) (u : Nat) (hu : u < TT) (hl : l.length = 32) (h : ∀ j, j < 32 → (l.getD j 0).toNat = u / 256 ^ j % 256) : l = enc u := by
  have hv : leb (enc u) = u := by rw [← nv_leb _ (enc_len u)]; exact nv_enc u hu
  apply List.ext_getElem
  · rw [hl, enc_len]
  · intro i h1 h2
    have e1 : l.getD i 0 = l[i] := by rw [List.getD_eq_getElem?_getD, List.getElem?_eq_getElem h1]; rfl
    have e2 : (enc u).getD i 0 = (enc u)[i] := by rw [List.getD_eq_getElem?_getD, List.getElem?_eq_getElem h2]; rfl
    apply UInt8.toNat_inj.1
    rw [← e1, ← e2, h i (by omega), ← leb_byte, hv]
theorem enc_byte (u : Nat) (hu : u < TT) (j : Nat) : ((enc u).getD j 0).toNat = u / 256 ^ j % 256 := by
  rw [← leb_byte, ← nv_leb _ (enc_len u), nv_enc u hu]
theorem getD_set_eq8 (l : List UInt8) (i : Nat) (b : UInt8) (h : i < l.length) : (l.set i b).getD i 0 = b := by
  rw [List.getD_eq_getElem?_getD, List.getElem?_set_self h]; rfl
theorem getD_set_ne8 (l : List UInt8) (i j : Nat) (b : UInt8) (h : i ≠ j) : (l.set i b).getD j 0 = l.getD j 0 := by
  rw [List.getD_eq_getElem?_getD, List.getElem?_set_ne h, ← List.getD_eq_getElem?_getD]

set_option maxHeartbeats 2000000 in
theorem rOf_core (x : Nat) (hx : x < 18446744073709551616) (w : World) : Calls Try.prog 18 #[.int .u64 x] w (Gives (vN x) w) := by
  have HX := Lib.hid hx
  clear hx
  go_enter Try.func18, Try.ntmps18
  go_wp2_with (first | ((with_reducible show wpList _ _ _ (⟨some 2, .alloc 23, _, _, _, _⟩ :: _) _ _); go_must (refine wpList_alloc_row rfl 23 rfl (.agg (zbs 32)) zero23 ?_; intro w1 h1 z1 g1; have H1 := Lib.hid h1; have Z1 := Lib.hid z1; have G1 := Lib.hid g1; clear h1 z1 g1)) | ((with_reducible show wpList _ _ _ (⟨some 3, .alloc 23, _, _, _, _⟩ :: _) _ _); go_must (refine wpList_alloc_row rfl 23 rfl (.agg (zbs 32)) zero23 ?_; intro w2 h1 z1 g1; have H2 := Lib.hid h1; have G2 := Lib.hid g1; clear h1 z1 g1)))
  have S : Hid (Sz w (List.replicate 32 0) w2) := Sz.start H1.out Z1.out G1.out H2.out G2.out
  rw [show w1.heap.size = w.heap.size + 1 from Z1.out]
  clear H1 Z1 G1 H2 G2
  go_loopw [4] (fun i wr => ∃ n : Nat, ∃ l : List UInt8, n ≤ 8 ∧ i = .int .i64 n ∧ leb l = x % 256 ^ n ∧ Sz w l wr) (fun i _ => 8 - (intOf i).toNat)
  case atStart => exact ⟨0, _, by omega, rfl, (show leb (List.replicate 32 0) = x % 256 ^ 0 by rw [Nat.pow_zero, Nat.mod_one]; rfl), S.out⟩
  case round =>
    obtain ⟨n, l, hn, rfl, hv, hp⟩ := hrel
    have H := Lib.hid hp
    have HVL := Lib.hid hv
    clear hp S hv
    have HBL : Hid (l.length = 32) := H.out.b.1
    obtain ⟨t, ht⟩ := H.out.b.2
    have HT := Lib.hid ht
    clear ht
    by_cases hlt : n < 8
    · have hni : (n : Int) < 8 := by omega
      go_wp2_with (first | ((with_reducible show wpList _ _ _ (⟨none, .store 5 (.tmp 16) (.tmp 15), _, _, _, _⟩ :: _) _ _); go_must (refine wpList_store_one rfl 5 (.tmp 16) (.tmp 15) rfl (w.heap.size + 1) n rfl .u8 _ rfl t _ HT.out size5 (by simp only [List.size_toArray, bcs_len]; have := HBL.out; omega) ?_; intro x5 hh hg hz; have HH := Lib.hid hh; have HG := Lib.hid hg; clear hh hg hz)) | fail)
      have hh := HH.out
      have h0 : (l.getD n 0).toNat = 0 := by
        rw [← leb_byte, HVL.out, Nat.div_eq_of_lt (Nat.mod_lt _ (Nat.pow_pos (by decide)))]
      have hs := leb_set l n (UInt8.ofNat (x / 256 ^ n)) (by have := HBL.out; omega)
      rw [h0, Nat.mul_zero, Nat.add_zero, of_byte, HVL.out, ← Nat.mod_pow_succ] at hs
      have e : ((x : Int) / 2 ^ (8 * n)) % 256 = ((x / 256 ^ n % 256 : Nat) : Int) := by
        rw [show ((2 : Int) ^ (8 * n)) = ((256 ^ n : Nat) : Int) from by rw [Int.pow_mul]; simp]
        simp
      have e2 : Value.int IntKind.u8 (((x : Int) / 2 ^ (8 * n)) % 256) = bc (UInt8.ofNat (x / 256 ^ n)) := by rw [e]; unfold bc; rw [of_byte]
      rw [e2, bcs_put] at hh
      exact ⟨⟨n + 1, _, by omega, by go_num, hs, H.out.set HG.out (by rw [List.length_set]; exact HBL.out) hh⟩, by simp [intOf]; omega⟩
    · obtain rfl : n = 8 := by omega
      have hl : l = enc x := by
        rw [leb_inj l HBL.out, HVL.out, Nat.mod_eq_of_lt HX.out]
      have HL := Lib.hid hl
      clear HVL hl
      go_wp2_with (first | ((with_reducible show wpList _ _ _ (⟨_, .load 23 (.tmp 3), _, _, _, _⟩ :: _) _ _); go_must (refine wpList_load_arr rfl 23 (.tmp 3) rfl (w.heap.size + 1) 0 rfl (bcs l) (fun i u hu => by rw [Nat.zero_add]; exact row_cells HT.out i u (by simpa using hu)) _ under23 rfl (by rw [bcs_len, HBL.out]; exact size23) ?_)) | ((with_reducible show wpList _ _ _ (⟨none, .store 23 (.tmp 2) (.tmp 17), _, _, _, _⟩ :: _) _ _); go_must (refine wpList_store_all rfl 23 (.tmp 2) (.tmp 17) rfl (w.heap.size) rfl (bcs l).toArray rfl 23 _ H.out.res (by rw [List.size_toArray, bcs_len, HBL.out]; exact size23) (by rw [List.size_toArray, bcs_len, HBL.out]; rfl) (bcs_one _) ?_; intro x5 hh hg hz; have HH := Lib.hid hh; have HG := Lib.hid hg; clear hh hg hz)) | fail)
      refine bodyPost_ret (results_cell_row rfl _ _ (w.heap.size) 23 (bcs l).toArray _ _ rfl HH.out under23 rfl (by rw [List.size_toArray, bcs_len, HBL.out]; exact size23)) rfl ?_
      exact ⟨by rw [HL.out]; rfl, H.out.bel.grown HG.out H.out.bel.size (fun r hr => by injection hr; omega)⟩
end Go.Proofs.Ytgdimnbdnepbgaa
/- Bits of numbers, the highest one; doubling; multiples. No statement is proved here. -/
namespace Go.Proofs.Ytgdimnbdnepbgaa
open Go.RowKit
set_option linter.unusedVariables false
set_option maxRecDepth 40000
set_option linter.unusedSimpArgs false

set_option maxHeartbeats 2000000 in
theorem Bit_core (a i c : Nat) (b : Bool) (hi : i < 256) (w : World) (HC : Hid (((enc a).getD (i / 8) 0).toNat = c)) (HB : Hid ((bits .and .u8 ((c : Int) / 2 ^ (i % 8)) 1 == 1) = b)) :
    Calls Try.prog 103 #[vN a, .int .i64 i] w (Gives (.bool b) w) := by
  have hii : (i : Int) < 256 := by omega
  go_enter Try.func103, Try.ntmps103
  go_wp2_with (first | ((with_reducible show wpList _ _ _ (⟨some 2, .box 23 (.tmp 0), _, _, _, _⟩ :: _) _ _); go_must (refine wpList_box_row rfl 23 (.tmp 0) rfl (bcs (enc a)).toArray rfl ?_; intro a1 h1 z1 g1; have HF : Hid (Below w.heap.size w a1) := below_of_grownBy g1; have c0 : a1.cell? ⟨w.heap.size, i / 8, none⟩ = some (.int .u8 (((enc a).getD (i / 8) 0).toNat : Nat)) := (show BAt a1 w.heap.size (enc a) from ⟨enc_len a, 23, h1⟩).cell (i / 8) (by omega); rw [HC.out] at c0; clear h1 z1 g1)) | fail)
  go_ret
  refine ⟨?_, HF.out⟩
  exact congrArg (fun x => Ending.returned (.bool x)) HB.out
theorem bit_num (a i : Nat) : a / 256 ^ (i / 8) % 256 / 2 ^ (i % 8) % 2 = a / 2 ^ i % 2 := by
  have e : 2 ^ i = 256 ^ (i / 8) * 2 ^ (i % 8) := by rw [show (256 : Nat) = 2 ^ 8 from rfl, ← Nat.pow_mul, ← Nat.pow_add]; congr 1; omega
  rw [e, ← Nat.div_div_eq_div_mul]
  generalize a / 256 ^ (i / 8) = z
  have h8 : i % 8 = 0 ∨ i % 8 = 1 ∨ i % 8 = 2 ∨ i % 8 = 3 ∨ i % 8 = 4 ∨ i % 8 = 5 ∨ i % 8 = 6 ∨ i % 8 = 7 := by omega
  rcases h8 with h | h | h | h | h | h | h | h <;> rw [h] <;> omega
theorem Bit_any (a i : Nat) (ha : a < TT) (hi : i < 256) (w : World) : Calls Try.prog 103 #[vN a, .int .i64 i] w (Gives (.bool (decide (a / 2 ^ i % 2 = 1))) w) := by
  refine Bit_core a i _ _ hi w (Lib.hid (enc_byte a ha (i / 8))) (Lib.hid ?_)
  have hc : a / 256 ^ (i / 8) % 256 / 2 ^ (i % 8) < 256 := Nat.lt_of_le_of_lt (Nat.div_le_self _ _) (Nat.mod_lt _ (by decide))
  rw [← bit_num, show ((2 : Int) ^ (i % 8)) = ((2 ^ (i % 8) : Nat) : Int) from by simp, ← Int.natCast_ediv]
  exact and_one _ hc
/-- The place above the highest bit of a and b. -/
def Top (a b j : Nat) : Prop := j ≤ 256 ∧ a / 2 ^ j = 0 ∧ b / 2 ^ j = 0
set_option maxHeartbeats 2000000 in
theorem highest_core (a b g1 g2 : Nat) (w : World) (R1 : Hid (RAt w g1 [a])) (R2 : Hid (RAt w g2 [b])) (H0 : Hid (Top a b 256))
    (B1 : Hid (∀ i : Nat, i < 256 → ∀ w, Calls Try.prog 103 #[vN a, .int .i64 i] w (Gives (.bool (decide (a / 2 ^ i % 2 = 1))) w)))
    (B2 : Hid (∀ i : Nat, i < 256 → ∀ w, Calls Try.prog 103 #[vN b, .int .i64 i] w (Gives (.bool (decide (b / 2 ^ i % 2 = 1))) w))) :
    Calls Try.prog 101 #[.pointer (some ⟨g1, 0, none⟩), .pointer (some ⟨g2, 0, none⟩)] w (fun e w' => ∃ j, Top a b j ∧ e = .returned (.int .i64 ((j : Int) - 1)) ∧ Below w.heap.size w w') := by
  go_enter Try.func101, Try.ntmps101
  go_wp2_with fail
  go_loopw [5] (fun i wr => ∃ j : Nat, Top a b j ∧ i = .int .i64 ((j : Int) - 1) ∧ RAt wr g1 [a] ∧ RAt wr g2 [b] ∧ Below w.heap.size w wr) (fun i _ => ((intOf i) + 1).toNat)
  case atStart => exact ⟨256, H0.out, rfl, R1.out, R2.out, Below.refl _ _⟩
  case round =>
    obtain ⟨j, ht, rfl, hp, hq, hr⟩ := hrel
    have HT := Lib.hid ht
    have S1 := Lib.hid hp
    have S2 := Lib.hid hq
    have HF := Lib.hid hr
    clear ht hp hq hr R1 R2 H0
    have hj := HT.out.1
    by_cases h0 : j = 0
    · subst h0
      go_wp2_with fail
      go_ret
      exact ⟨0, HT.out, rfl, HF.out⟩
    · obtain ⟨i, rfl⟩ : ∃ i, j = i + 1 := ⟨j - 1, by omega⟩
      have HT2 : Hid (a / 2 ^ i % 2 = 0 → b / 2 ^ i % 2 = 0 → Top a b i) := Lib.hid fun e1 e2 => by
        obtain ⟨_, h1, h2⟩ := HT.out
        rw [Nat.pow_succ, ← Nat.div_div_eq_div_mul] at h1 h2
        exact ⟨by omega, by omega, by omega⟩
      have C1 := Lib.hid (B1.out i (by omega))
      have C2 := Lib.hid (B2.out i (by omega))
      rw [show ((i + 1 : Nat) : Int) - 1 = (i : Int) from by omega]
      have hii : (0 : Int) ≤ (i : Int) := by omega
      have hib : (i : Int) < 256 := by omega
      by_cases e1 : a / 2 ^ i % 2 = 1
      · rw [decide_eq_true e1] at C1
        go_wp2_with (first | ((with_reducible show wpList _ _ _ (⟨_, .load 23 (.tmp 10), _, _, _, _⟩ :: _) _ _); go_must (refine wpList_exec rfl (vN a) (exec_loadF (.tmp 10) rfl g1 0 0 rfl [a] a rfl S1.out rfl) ?_)) | fail)
        refine (C1.out _).mono ?_
        rintro e x1 ⟨rfl, hb⟩
        have HF2 := Lib.hid (HF.out.trans (hb.mono HF.out.size))
        clear hb HF
        go_wp2_with fail
        go_ret
        exact ⟨i + 1, HT.out, by rw [show ((i + 1 : Nat) : Int) - 1 = (i : Int) from by omega]; rfl, HF2.out⟩
      · rw [decide_eq_false e1] at C1
        go_wp2_with (first | ((with_reducible show wpList _ _ _ (⟨_, .load 23 (.tmp 10), _, _, _, _⟩ :: _) _ _); go_must (refine wpList_exec rfl (vN a) (exec_loadF (.tmp 10) rfl g1 0 0 rfl [a] a rfl S1.out rfl) ?_)) | fail)
        refine (C1.out _).mono ?_
        rintro e x1 ⟨rfl, hb⟩
        have HF2 := Lib.hid (HF.out.trans (hb.mono HF.out.size))
        have T1 := Lib.hid (S1.out.keep hb)
        have T2 := Lib.hid (S2.out.keep hb)
        clear hb HF S1 S2
        go_wp2_with (first | ((with_reducible show wpList _ _ _ (⟨_, .load 23 (.tmp 18), _, _, _, _⟩ :: _) _ _); go_must (refine wpList_exec rfl (vN b) (exec_loadF (.tmp 18) rfl g2 0 0 rfl [b] b rfl T2.out rfl) ?_)) | fail)
        by_cases e2 : b / 2 ^ i % 2 = 1
        · rw [decide_eq_true e2] at C2
          refine (C2.out _).mono ?_
          rintro e x2 ⟨rfl, hb⟩
          have HF3 := Lib.hid (HF2.out.trans (hb.mono HF2.out.size))
          clear hb HF2
          go_wp2_with fail
          go_ret
          exact ⟨i + 1, HT.out, by rw [show ((i + 1 : Nat) : Int) - 1 = (i : Int) from by omega]; rfl, HF3.out⟩
        · rw [decide_eq_false e2] at C2
          refine (C2.out _).mono ?_
          rintro e x2 ⟨rfl, hb⟩
          have HF3 := Lib.hid (HF2.out.trans (hb.mono HF2.out.size))
          have U1 := Lib.hid (T1.out.keep hb)
          have U2 := Lib.hid (T2.out.keep hb)
          clear hb HF2 T1 T2
          go_wp2_with fail
          refine ⟨⟨i, HT2.out (by omega) (by omega), by go_num, U1.out, U2.out, HF3.out⟩, by simp [intOf]⟩
end Go.Proofs.Ytgdimnbdnepbgaa
/- Multiples of points; doubling. No statement is proved here. -/
namespace Go.Proofs.Ytgdimnbdnepbgaa
open Go.RowKit
set_option linter.unusedVariables false
set_option maxRecDepth 40000
set_option linter.unusedSimpArgs false

namespace Ed
variable {n : Nat} [NeZero n]
def sm (E : Ed n) (p : E.Pt) : Nat → E.Pt
  | 0 => E.zero
  | k + 1 => E.add (E.sm p k) p
theorem sm_add (E : Ed n) (p : E.Pt) (a : Nat) : ∀ b, E.sm p (a + b) = E.add (E.sm p a) (E.sm p b)
  | 0 => (E.add_zero _).symm
  | b + 1 => by
    show E.add (E.sm p (a + b)) p = E.add (E.sm p a) (E.add (E.sm p b) p)
    rw [sm_add E p a b, E.add_assoc]
theorem sm_one (E : Ed n) (p : E.Pt) : E.sm p 1 = p := E.zero_add p
theorem sm_two (E : Ed n) (p : E.Pt) (a : Nat) : E.sm p (2 * a) = E.add (E.sm p a) (E.sm p a) := by rw [Nat.two_mul, E.sm_add]
theorem add4 (E : Ed n) (p q r s : E.Pt) : E.add (E.add p q) (E.add r s) = E.add (E.add p r) (E.add q s) := by
  rw [E.add_assoc, ← E.add_assoc q, E.add_comm q r, E.add_assoc r, ← E.add_assoc]
theorem sm_sum (E : Ed n) (p q : E.Pt) : ∀ a, E.sm (E.add p q) a = E.add (E.sm p a) (E.sm q a)
  | 0 => (E.add_zero _).symm
  | a + 1 => by
    show E.add (E.sm (E.add p q) a) (E.add p q) = E.add (E.add (E.sm p a) p) (E.add (E.sm q a) q)
    rw [sm_sum E p q a, E.add4]
theorem sm_zero (E : Ed n) : ∀ a, E.sm E.zero a = E.zero
  | 0 => rfl
  | a + 1 => by
    show E.add (E.sm E.zero a) E.zero = E.zero
    rw [sm_zero E a, E.add_zero]
theorem sm_mul (E : Ed n) (p : E.Pt) (a : Nat) : ∀ b, E.sm p (a * b) = E.sm (E.sm p a) b
  | 0 => rfl
  | b + 1 => by
    rw [Nat.mul_succ, E.sm_add, sm_mul E p a b]
    rfl
/-- a times p and b times q, without the low i bits. -/
def two (E : Ed n) (p q : E.Pt) (a b i : Nat) : E.Pt := E.add (E.sm p (a / 2 ^ i)) (E.sm q (b / 2 ^ i))
theorem two_step (E : Ed n) (p q : E.Pt) (a b i : Nat) : E.two p q a b i = E.add (E.add (E.two p q a b (i + 1)) (E.two p q a b (i + 1))) (E.add (E.sm p (a / 2 ^ i % 2)) (E.sm q (b / 2 ^ i % 2))) := by
  have e : ∀ x : Nat, x / 2 ^ i = 2 * (x / 2 ^ (i + 1)) + x / 2 ^ i % 2 := fun x => by
    rw [Nat.pow_succ, ← Nat.div_div_eq_div_mul]
    omega
  unfold two
  rw [E.add4 (E.sm p (a / 2 ^ (i + 1))), ← E.sm_two, ← E.sm_two, E.add4, ← E.sm_add, ← E.sm_add, ← e, ← e]
end Ed
def X4.dbl (p : X4) : X4 :=
  let xx := p.x * p.x
  let yy := p.y * p.y
  let one := p.z * p.z
  let x := p.x * p.y + p.x * p.y
  let y := yy + xx
  let ox := yy - xx
  let oy := one + one - ox
  ⟨x * oy, y * ox, ox * oy, x * y⟩
theorem edouble_any (p : X4) (r0 r1 r2 r3 : Nat) (w : World) (g gp : Nat) (h0 : RAt w g [r0, r1, r2, r3]) (hp : RAt w gp p.l) :
    Calls Try.prog 102 #[.pointer (some ⟨g, 0, none⟩), .pointer (some ⟨gp, 0, none⟩)] w (SetsR g p.dbl.l w) :=
  edouble_core g gp r0 r1 r2 r3 p.x.val p.y.val p.z.val p.t.val (p.x * p.x).val (p.y * p.y).val (p.z * p.z).val (p.x * p.y).val (p.x * p.y + p.x * p.y).val (p.y * p.y + p.x * p.x).val (p.y * p.y - p.x * p.x).val (p.z * p.z + p.z * p.z).val (p.z * p.z + p.z * p.z - (p.y * p.y - p.x * p.x)).val _ _ _ _ w
    (Lib.hid (fMul _ _)) (Lib.hid (fMul _ _)) (Lib.hid (fMul _ _)) (Lib.hid (fMul _ _)) (Lib.hid (fAdd _ _)) (Lib.hid (fAdd _ _)) (Lib.hid (fSub _ _)) (Lib.hid (fAdd _ _)) (Lib.hid (fSub _ _))
    (Lib.hid fun w g1 g2 g3 g4 h0 h1 h2 h3 h4 n1 n2 n3 n4 => divide_any _ _ _ _ r0 r1 r2 r3 w g g1 g2 g3 g4 h0 h1 h2 h3 h4 n1 n2 n3 n4) (Lib.hid h0) (Lib.hid hp)
theorem X4.Is.dbl {p : X4} {x1 y1 : Fin PP} (hp : p.Is x1 y1) (o1 : EC.On x1 y1) : p.dbl.Is (EC.sx x1 y1 x1 y1) (EC.sy x1 y1 x1 y1) := by
  obtain ⟨p0, p1, p2, p3⟩ := hp
  have e1 := EC.sx_eq o1 o1
  have e2 := EC.sy_eq o1 o1
  have d1 := EC.den1 o1 o1
  have d2 := EC.den2 o1 o1
  have hz : p.z * p.z ≠ 0 := EC.mul_ne p0 p0
  have hd : EC.d = dF := rfl
  unfold Ed.On at o1
  rw [hd] at e1 e2 d1 d2 o1
  generalize EC.sx x1 y1 x1 y1 = X at *
  generalize EC.sy x1 y1 x1 y1 = Y at *
  have k1 : p.y * p.y - p.x * p.x = p.z * p.z * (1 + dF * (x1 * y1 * (x1 * y1))) := by rw [p1, p2]; grind
  have k2 : p.z * p.z + p.z * p.z - p.z * p.z * (1 + dF * (x1 * y1 * (x1 * y1))) = p.z * p.z * (1 - dF * (x1 * y1 * (x1 * y1))) := by grind
  have k3 : p.x * p.y + p.x * p.y = p.z * p.z * (x1 * y1 + y1 * x1) := by rw [p1, p2]; grind
  have k4 : p.y * p.y + p.x * p.x = p.z * p.z * (y1 * y1 + x1 * x1) := by rw [p1, p2]; grind
  unfold X4.Is X4.dbl
  simp only
  rw [k1, k2, k3, k4, ← e1, ← e2]
  clear k1 k2 k3 k4 e1 e2 o1 p3 p1 p2
  generalize 1 + dF * (x1 * y1 * (x1 * y1)) = B at *
  generalize 1 - dF * (x1 * y1 * (x1 * y1)) = D at *
  generalize p.z * p.z = z at *
  refine ⟨EC.mul_ne (EC.mul_ne hz d1) (EC.mul_ne hz d2), by grind, by grind, by grind⟩
/-- p in extended coordinates. -/
def X4.IsP (x : X4) (p : EC.Pt) : Prop := x.Is p.1.1 p.1.2
theorem X4.IsP.add {x y : X4} {p q : EC.Pt} (hx : x.IsP p) (hy : y.IsP q) : (x.sum y).IsP (EC.add p q) := X4.Is.sum hx hy p.2 q.2
theorem X4.IsP.dbl {x : X4} {p : EC.Pt} (hx : x.IsP p) : x.dbl.IsP (EC.add p p) := X4.Is.dbl hx p.2
theorem X4.IsP.of (p : EC.Pt) : (X4.of p).IsP p := X4.of_is p
theorem X4.IsP.point {x : X4} {p : EC.Pt} (h : x.IsP p) (w : World) (g : Nat) (hr : RAt w g x.l) : Calls Try.prog 82 #[.pointer (some ⟨g, 0, none⟩)] w (Gives (vPt p) w) := by
  have h2 := epoint_any x w g hr
  have hq := X4.Is.point h
  rw [hq.1, hq.2] at h2
  exact h2
end Go.Proofs.Ytgdimnbdnepbgaa
/- The curve's examples, Bytes and Read over points. No statement is proved here. -/
namespace Go.Proofs.Ytgdimnbdnepbgaa
open Go.RowKit
set_option linter.unusedVariables false
set_option maxRecDepth 40000
set_option linter.unusedSimpArgs false

theorem bxN_lt : bxN < PP := by unfold bxN PP; omega
theorem byN_lt : byN < PP := by unfold byN PP; omega
def bX : Fin PP := ⟨bxN, bxN_lt⟩
def bY : Fin PP := ⟨byN, byN_lt⟩
theorem base_on : bY * bY - bX * bX = 1 + dF * (bX * bX * (bY * bY)) := by decide +kernel
noncomputable def bP : EC.Pt := ⟨(bX, bY), base_on⟩
theorem pBase (w : World) : Calls Try.prog 42 #[] w (Gives (vPt bP) w) := Base_any w
theorem across_any (k : Nat) (hk : PP = 8 * k + 5) (y : Fin PP) (w : World) :
    Calls Try.prog 78 #[vN y.val] w (Gives (.tuple #[vN (rt PP k ((y * y - 1) * fInv (dF * (y * y) + 1)).val).1, .bool (rt PP k ((y * y - 1) * fInv (dF * (y * y) + 1)).val).2]) w) := by
  have hA : ∀ w, Calls Try.prog 19 #[vN (dF * (y * y)).val, vN 1] w (Gives (vN (dF * (y * y) + 1).val) w) := fun w => by
    have h := fAdd (dF * (y * y)) 1 w
    rw [v1] at h
    exact h
  have hS : ∀ w, Calls Try.prog 21 #[vN (y * y).val, vN 1] w (Gives (vN (y * y - 1).val) w) := fun w => by
    have h := fSub (y * y) 1 w
    rw [v1] at h
    exact h
  have hR := Root_any k hk ((y * y - 1) * fInv (dF * (y * y) + 1)).val (fT _)
  generalize rt PP k ((y * y - 1) * fInv (dF * (y * y) + 1)).val = r at *
  exact across_core y.val _ _ _ _ _ _ _ r.1 r.2 w (Lib.hid fun w => Of_any 1 (by omega) w) (Lib.hid (fMul y y)) (Lib.hid fD) (Lib.hid (fMul _ _)) (Lib.hid hA) (Lib.hid (fInvC _)) (Lib.hid hS) (Lib.hid (fMul _ _)) (Lib.hid hR)
theorem rt_zero (k : Nat) : rt PP k 0 = (0, true) := by
  have h0 : (0 % PP) ^ (k + 1) % PP = 0 := by rw [Nat.zero_mod, Nat.zero_pow (by omega), Nat.zero_mod]
  unfold rt
  rw [h0, Nat.zero_mul, Nat.zero_mod, if_pos rfl]
  rfl
theorem oddOne_t : ((enc oddOne).getD 31 0).toNat = 128 := by decide +kernel
theorem oddOne_s : (enc oddOne).set 31 (UInt8.ofNat 0) = enc 1 := by decide +kernel
theorem clives_any (w : World) : Calls Try.prog 38 #[] w (Gives (.bool true) w) := by
  obtain ⟨k, hk⟩ := k_ex
  have hO : ∀ w, Calls Try.prog 31 #[vN bxN] w (Gives (.bool false) w) := fun w => by
    have h := Odd_any bxN (Nat.lt_trans bxN_lt PP_lt) w
    rw [show decide (bxN % PP % 2 = 1) = false from by decide +kernel] at h
    exact h
  have hB : ∀ w, Calls Try.prog 36 #[vR [bxN, byN]] w (Gives (.tuple #[vN byN, .int .i64 0]) w) := fun w =>
    Bytes_core bxN byN byN false w (Lib.hid (pCheck bP)) (Lib.hid hO) (Lib.hid (by simp)) (Lib.hid (by decide +kernel))
  have hA : ∀ w, Calls Try.prog 78 #[vN 1] w (Gives (.tuple #[vN 0, .bool true]) w) := fun w => by
    have h := across_any k hk 1 w
    have e : ((1 * 1 - 1) * fInv (dF * (1 * 1) + 1) : Fin PP) = 0 := by
      generalize fInv (dF * (1 * 1) + 1) = v
      grind
    rw [e, v0, rt_zero, v1] at h
    exact h
  have hC : ∀ w, Calls Try.prog 15 #[vN 1] w (Gives (.bool true) w) := fun w => by
    have h := fCanon 1 w
    rw [v1] at h
    exact h
  have hN : ∀ w, Calls Try.prog 23 #[vN 0] w (Gives (vN 0) w) := fun w => gives_N (by unfold PP; omega) (Neg_any 0 (by unfold TT; omega) w)
  have hR : ∀ w, Calls Try.prog 35 #[vN oddOne] w (Gives (.tuple #[vR [0, 0], .int .i64 4]) w) := fun w =>
    Read_core oddOne 1 0 0 128 0 0 0 4 true true true true w (Lib.hid oddOne_t) (Lib.hid (by decide +kernel)) (Lib.hid (by decide +kernel)) (Lib.hid (by omega)) (Lib.hid oddOne_s) (Lib.hid hC) (Lib.hid hA) (Lib.hid hN) (Lib.hid (eqN_same 0)) (Lib.hid (by simp))
  exact clives_core bxN byN oddOne w (Lib.hid Base_any) (Lib.hid hB) (Lib.hid hR) (Lib.hid rfl) (Lib.hid (by decide +kernel)) (Lib.hid fun i h1 h2 => (by decide +kernel : ∀ i, i < 32 → 1 ≤ i → ((enc byN).getD i 0).toNat = 102) i h2 h1)
end Go.Proofs.Ytgdimnbdnepbgaa
/- The lexical order of a long region, checked in fewer steps. No statement is proved here. -/
namespace Go.Proofs.Ytgdimnbdnepbgaa
open Go.RowKit
set_option linter.unusedVariables false
set_option linter.unusedSimpArgs false

def lstd (k m : Nat) : Array Bool := (List.replicate k true ++ List.replicate m false).toArray
theorem lstd_get (k m j : Nat) (d : Bool) : (lstd k m).getD j d = if j < k then true else if j < k + m then false else d := by
  unfold lstd
  rw [Array.getD_eq_getD_getElem?, List.getElem?_toArray]
  by_cases h : j < k
  · rw [if_pos h, List.getElem?_append_left (by simpa using h), List.getElem?_replicate, if_pos h]; rfl
  · rw [if_neg h, List.getElem?_append_right (by simpa using Nat.le_of_not_lt h), List.getElem?_replicate, List.length_replicate]
    by_cases h2 : j < k + m
    · rw [if_pos h2, if_pos (by omega)]; rfl
    · rw [if_neg h2, if_neg (by omega)]; rfl
theorem lstd_set (k m : Nat) : (lstd k (m + 1)).setIfInBounds k true = lstd (k + 1) m := by
  unfold lstd
  apply Array.toList_inj.1
  rw [Array.toList_setIfInBounds]
  show (List.replicate k true ++ List.replicate (m + 1) false).set k true = List.replicate (k + 1) true ++ List.replicate m false
  rw [List.set_append_right _ _ (by simp), List.length_replicate, Nat.sub_self, List.replicate_succ, List.set_cons_zero]
  simp [List.replicate_succ', List.append_assoc]
def stepsOk (md : Region.Mode) (ops : Array Oper) : Nat → List Oper → Bool
  | _, [] => true
  | k, o :: l => (o.after.all fun e => !Region.binds md e || decide (e.on < k)) && ((l.all fun oj => oj.after.any (fun e => Region.binds md e && e.on == k) || o.apart ops oj) && stepsOk md ops (k + 1) l)
theorem lex_steps (md : Region.Mode) (ops : Array Oper) : ∀ (l : List Oper) (k : Nat), (∀ j, l[j]? = ops[k + j]?) → k + l.length = ops.size → stepsOk md ops k l = true → Region.lexFrom md ops l.length k (lstd k l.length) = true
  | [], k, _, hn, _ => by
    show (Region.ready md ops (lstd k 0)).isEmpty = true
    rw [List.isEmpty_iff, List.eq_nil_iff_forall_not_mem]
    intro j hj
    have h := (mem_ready.1 hj).1
    rw [lstd_get] at h
    by_cases h1 : j < k
    · rw [if_pos h1] at h; cases h
    · rw [if_neg h1, if_neg (by simpa using h1)] at h; cases h
  | o :: l, k, hl, hn, h => by
    have h0 : ops[k]? = some o := by simpa using (hl 0).symm
    simp only [stepsOk, Bool.and_eq_true] at h
    obtain ⟨h1, h2, h3⟩ := h
    show ((Region.ready md ops (lstd k (l.length + 1))).contains k && Region.free md ops (lstd k (l.length + 1)) k && Region.lexFrom md ops l.length (k + 1) ((lstd k (l.length + 1)).setIfInBounds k true)) = true
    rw [lstd_set, lex_steps md ops l (k + 1) (fun j => by have := hl (j + 1); simpa [Nat.add_assoc, Nat.add_comm 1 j] using this) (by simp only [List.length_cons] at hn; omega) h3, Bool.and_true, Bool.and_eq_true]
    constructor
    · rw [List.contains_iff_mem, mem_ready]
      refine ⟨by rw [lstd_get, if_neg (by omega), if_pos (by omega)], o, h0, fun e he hb => ?_⟩
      have := Array.all_eq_true_iff_forall_mem.1 h1 e he
      rw [hb] at this
      simp at this
      rw [lstd_get, if_pos this]
    · unfold Region.free
      rw [h0]
      simp only
      rw [List.all_eq_true]
      intro j hj
      rw [List.mem_range] at hj
      by_cases hjk : j = k
      · subst hjk; simp
      · by_cases hlt : j < k
        · rw [lstd_get, if_pos hlt]; simp
        · obtain ⟨i, rfl⟩ : ∃ i, j = k + (i + 1) := ⟨j - k - 1, by omega⟩
          have hli : (o :: l)[i + 1]? = ops[k + (i + 1)]? := hl (i + 1)
          rw [List.getElem?_cons_succ] at hli
          rw [← hli]
          cases ho : l[i]? with
          | none => simp
          | some oj =>
            have hm := List.mem_of_getElem? ho
            have := List.all_eq_true.1 h2 oj hm
            simp only [Bool.or_eq_true] at this ⊢
            exact .inr this
theorem lexB_steps (md : Region.Mode) (l : List Oper) (h1 : Region.noSelect l.toArray = true) (h2 : stepsOk md l.toArray 0 l = true) : Region.lexB md l.toArray = true := by
  unfold Region.lexB
  rw [h1, Bool.true_and]
  have h := lex_steps md l.toArray l 0 (fun j => by rw [Nat.zero_add, List.getElem?_toArray]) (by simp) h2
  have e : (Array.replicate l.toArray.size false) = lstd 0 l.length := by
    unfold lstd
    apply Array.toList_inj.1
    simp
  rw [e]
  simpa using h
/-- A long region. -/
theorem region_wq2 {id : Nat} {Q : Exit → Act → World → Prop} {a : Act} {w : World} {l : List Oper} (hm : Try.prog.follows .mixedOrders = true) (h1 : Region.noSelect l.toArray = true) (h2 : stepsOk .any l.toArray 0 l = true)
    (h : WQ Try.prog l.toArray (CB w) (fun a' => ∀ w', Below w.heap.size w w' → Q .normal a' w') l a) : (Code.region id l.toArray true).wp Try.prog Q a w := region_wq hm (lexB_steps _ _ h1 h2) h
end Go.Proofs.Ytgdimnbdnepbgaa
/- Points that come in; steps of quiet regions over points. No statement is proved here. -/
namespace Go.Proofs.Ytgdimnbdnepbgaa
open Go.RowKit
set_option linter.unusedVariables false
set_option maxRecDepth 40000
set_option linter.unusedSimpArgs false

section
variable {ops : Array Oper} {rest : List Oper} {o : Oper} {a : Act} {w0 : World} {Q : Act → Prop}
theorem wq_loadP (hw : Region.wanted o (yielded ops a.tmps) = true) (x : Operand) (ho : o.op = .load 35 x) (g m n : Nat) (hx : a.eval x = .pointer (some ⟨g, 0, none⟩)) (hr : RAt w0 g [m, n]) (h : WQ Try.prog ops (CB w0) Q rest (a.put o.dst (vR [m, n]))) : WQ Try.prog ops (CB w0) Q (o :: rest) a :=
  ⟨qb_val hw _ (fun w hk => exec_loadP x ho g m n hx (hr.keep hk)) h.out⟩
theorem wq_loadF (hw : Region.wanted o (yielded ops a.tmps) = true) (x : Operand) (ho : o.op = .load 23 x) (g i off : Nat) (he : off = 32 * i) (l : List Nat) (n : Nat) (hx : a.eval x = .pointer (some ⟨g, off, none⟩)) (hr : RAt w0 g l) (hn : l[i]? = some n) (h : WQ Try.prog ops (CB w0) Q rest (a.put o.dst (vN n))) : WQ Try.prog ops (CB w0) Q (o :: rest) a :=
  ⟨qb_val hw _ (fun w hk => exec_loadF x ho g i off he l n hx (hr.keep hk) hn) h.out⟩
theorem wq_load22 (hw : Region.wanted o (yielded ops a.tmps) = true) (x : Operand) (ho : o.op = .load 22 x) (g n : Nat) (hx : a.eval x = .pointer (some ⟨g, 0, none⟩)) (hr : RAt w0 g [n]) (h : WQ Try.prog ops (CB w0) Q rest (a.put o.dst (vN n))) : WQ Try.prog ops (CB w0) Q (o :: rest) a :=
  ⟨qb_val hw _ (fun w hk => exec_load22 x ho g 0 0 rfl [n] n hx (hr.keep hk) rfl) h.out⟩
theorem wq_field (hw : Region.wanted o (yielded ops a.tmps) = true) (t : TypeId) (x : Operand) (i : Nat) (ho : o.op = .fieldAddr t x i) (g off : Nat) (hx : a.eval x = .pointer (some ⟨g, 0, none⟩)) (hr : ∀ w, (Instr.fieldAt t (.pointer (some ⟨g, 0, none⟩)) i).run Try.prog w = .ok (.pointer (some ⟨g, off, none⟩)) w)
    (h : WQ Try.prog ops (CB w0) Q rest (a.put o.dst (.pointer (some ⟨g, off, none⟩)))) : WQ Try.prog ops (CB w0) Q (o :: rest) a :=
  ⟨qb_val hw _ (fun w _ => exec_field t x i ho g off hx hr) h.out⟩
theorem wq_buildc (hw : Region.wanted o (yielded ops a.tmps) = true) (t : TypeId) (parts : Array (Nat × Operand)) (v : Value) (ho : o.op = .build t parts) (hr : ∀ w, (Instr.build t (parts.map fun (i, x) => (i, a.eval x))).run Try.prog w = .ok v w) (h : WQ Try.prog ops (CB w0) Q rest (a.put o.dst v)) : WQ Try.prog ops (CB w0) Q (o :: rest) a :=
  ⟨qb_val hw _ (fun w _ => exec_buildc ho (hr w)) h.out⟩
theorem exec_eqP {w : World} {m n m' n' : Nat} {b : Bool} (x y : Operand) (ho : o.op = .binOp .eql 35 x y 35) (hx : a.eval x = vR [m, n]) (hy : a.eval y = vR [m', n']) (hb : (Op.equalIn 10000 35 (vR [m, n]) (vR [m', n'])).run Try.prog w = .ok b w) : (execOp a.eval o).run Try.prog w = .ok (.value (.bool b)) w := by
  have hg : ∀ (x y : Operand), (eqGuard .eql 35 x y (vR [m, n]) (vR [m', n'])).run Try.prog w = .ok () w := fun x y => run_eqGuard_agg w .eql 35 x y _ _ Try.eqGuardType35
  have hbin : (binOp .eql 35 (vR [m, n]) (vR [m', n'])).run Try.prog w = .ok (.bool b) w := by
    show (do pure (.bool (← Op.equal 35 (vR [m, n]) (vR [m', n']))) : Sem Value).run Try.prog w = _
    rw [Sem.run_bind, show (Op.equal 35 (vR [m, n]) (vR [m', n'])) = Op.equalIn 10000 35 (vR [m, n]) (vR [m', n']) from rfl, hb]
    rfl
  unfold execOp
  simp only [ho, hx, hy, Sem.run_bind, Sem.run_pure, Result.andThen_ok, hg, hbin]
theorem exec_neqP {w : World} {m n m' n' : Nat} {b : Bool} (x y : Operand) (ho : o.op = .binOp .neq 35 x y 35) (hx : a.eval x = vR [m, n]) (hy : a.eval y = vR [m', n']) (hb : (Op.equalIn 10000 35 (vR [m, n]) (vR [m', n'])).run Try.prog w = .ok b w) : (execOp a.eval o).run Try.prog w = .ok (.value (.bool (!b))) w := by
  have hg : ∀ (x y : Operand), (eqGuard .neq 35 x y (vR [m, n]) (vR [m', n'])).run Try.prog w = .ok () w := fun x y => run_eqGuard_agg w .neq 35 x y _ _ Try.eqGuardType35
  have hbin : (binOp .neq 35 (vR [m, n]) (vR [m', n'])).run Try.prog w = .ok (.bool (!b)) w := by
    show (do pure (.bool (!(← Op.equal 35 (vR [m, n]) (vR [m', n'])))) : Sem Value).run Try.prog w = _
    rw [Sem.run_bind, show (Op.equal 35 (vR [m, n]) (vR [m', n'])) = Op.equalIn 10000 35 (vR [m, n]) (vR [m', n']) from rfl, hb]
    rfl
  unfold execOp
  simp only [ho, hx, hy, Sem.run_bind, Sem.run_pure, Result.andThen_ok, hg, hbin]
theorem wq_eqP (hw : Region.wanted o (yielded ops a.tmps) = true) (x y : Operand) (ho : o.op = .binOp .eql 35 x y 35) (m n m' n' : Nat) (hx : a.eval x = vR [m, n]) (hy : a.eval y = vR [m', n']) (b : Bool) (hb : ∀ w, (Op.equalIn 10000 35 (vR [m, n]) (vR [m', n'])).run Try.prog w = .ok b w) (h : WQ Try.prog ops (CB w0) Q rest (a.put o.dst (.bool b))) : WQ Try.prog ops (CB w0) Q (o :: rest) a :=
  ⟨qb_val hw _ (fun w _ => exec_eqP x y ho hx hy (hb w)) h.out⟩
theorem wq_neqP (hw : Region.wanted o (yielded ops a.tmps) = true) (x y : Operand) (ho : o.op = .binOp .neq 35 x y 35) (m n m' n' : Nat) (hx : a.eval x = vR [m, n]) (hy : a.eval y = vR [m', n']) (b b' : Bool) (hb : ∀ w, (Op.equalIn 10000 35 (vR [m, n]) (vR [m', n'])).run Try.prog w = .ok b w) (hb' : (!b) = b') (h : WQ Try.prog ops (CB w0) Q rest (a.put o.dst (.bool b'))) : WQ Try.prog ops (CB w0) Q (o :: rest) a :=
  ⟨qb_val hw _ (fun w _ => by rw [← hb']; exact exec_neqP x y ho hx hy (hb w)) h.out⟩
end
theorem run_eq36 (m n : Int) (b : Bool) (hb : (m == n) = b) (w : World) : (binOp .eql 36 (.int .i64 m) (.int .i64 n)).run Try.prog w = .ok (.bool b) w := by
  subst hb
  kernel_rfl
theorem eqP_same (m n : Nat) (w : World) : (Op.equalIn 10000 35 (vR [m, n]) (vR [m, n])).run Try.prog w = .ok true w := by
  have hk : Try.prog.keyTypeAt 3 35 = true := by kernel_rfl
  have hf : ∀ m n, (vR [m, n]).formed Try.prog 35 = true := by
    intro m n
    have hc : Try.prog.cellsOf 35 = 64 := by kernel_rfl
    have hl : (bcs (encs [m, n])).length = 64 := by rw [bcs_len, encs_len]; rfl
    simp [Value.formed, vR, hc, hl]
  obtain ⟨r, hr, hiff⟩ := run_equalIn_deep (P := Try.prog) 9997 3 35 hk w 3 3 _ _ _ _ (hf m n) (hf m n) (keyLits35 m n) (keyLits35 m n)
  rw [hr, hiff.2 rfl]

section
variable {H : Type} {enc : TypeId × Value → H} {P : Program} {w : World} {base : Nat} {spare : Nat → Bool} {held : Bool}
theorem open_cells {n e fuel : Nat} {t : TypeId} {cs : List Value} {x : DataW H × List MemPlace} (ht : P.underlying t = some (.array n e)) (he : P.underlying e = some (.int .u8)) (hce : P.cellsOf e = 1) (hct : P.cellsOf t = n)
    (hf : DataW.trod enc P w base spare held fuel t cs = some x) : ∃ l : List UInt8, l.length = n ∧ cs = bcs l := by
  obtain ⟨xs, m, _, _, hl, hxl, hel⟩ := DataW.trod_array ht hf
  have hcs : ∀ i (hi : i < cs.length), ∃ b : UInt8, cs[i] = bc b := by
    intro i hi
    have h1 := hel i (by omega)
    have hd : (cs.drop (i * P.cellsOf e)).take (P.cellsOf e) = [cs[i]] := by
      rw [hce, Nat.mul_one, List.drop_eq_getElem_cons hi]
      simp only [List.take_succ_cons, List.take_zero]
    rw [hd, List.getElem?_eq_getElem (by omega)] at h1
    obtain ⟨z, e0, _, wz⟩ := DataW.trod_int he h1
    simp only [List.cons.injEq, and_true] at e0
    have hb := bounds_u8 wz
    refine ⟨UInt8.ofNat z.toNat, ?_⟩
    rw [e0]
    unfold bc
    rw [UInt8.toNat_ofNat']
    congr 1
    omega
  refine ⟨cs.map (fun v => match v with | .int _ z => UInt8.ofNat z.toNat | _ => 0), by simp; omega, ?_⟩
  apply List.ext_getElem
  · simp [bcs]
  · intro i h1 h2
    obtain ⟨b, hb⟩ := hcs i h1
    simp only [bcs, List.map_map, List.getElem_map, Function.comp_def, hb]
    simp [bc]
end
/-- A point's numbers that came in. -/
theorem open_pt {H : Type} {enc' : TypeId × Value → H} {w : World} {base b0 : Nat} {spare : Nat → Bool} {held : Bool} {r : Reach} {v : Value} {d : DataW H} {p : List MemPlace}
    (hv : Value.okWide Try.prog w r b0 35 v) (h : DataW.Trod enc' Try.prog w base spare held 35 v d p) : ∃ X Y : Nat, X < TT ∧ Y < TT ∧ v = vR [X, Y] := by
  have ho : ∃ cs, v = .agg cs ∧ cs.size = Try.prog.cellsOf 35 := by
    simp only [Value.okWide, Try.underlying35] at hv
    obtain ⟨cs, h1, h2, _⟩ := hv
    exact ⟨cs, h1, h2⟩
  obtain ⟨cs, rfl, hsz⟩ := ho
  obtain ⟨fuel, hf⟩ := h
  obtain ⟨y0, y1, n, _, hl, h0, h1⟩ := Go.ChangeShapes.trod_struct2 Try.underlying35 hf
  obtain ⟨l0, n0, e0⟩ := open_cells under23 Try.underlying5 (by kernel_rfl) (by kernel_rfl) h0
  obtain ⟨l1, n1, e1⟩ := open_cells under23 Try.underlying5 (by kernel_rfl) (by kernel_rfl) h1
  have h23 : Try.prog.cellsOf 23 = 32 := by kernel_rfl
  have h35 : Try.prog.cellsOf 35 = 64 := by kernel_rfl
  refine ⟨nv l0, nv l1, nv_lt l0, nv_lt l1, ?_⟩
  unfold vR
  rw [encs, encs_one, enc_nv l0 n0, enc_nv l1 n1, bcs_append, ← e0, ← e1]
  congr 1
  apply Array.toList_inj.1
  show cs.toList = (cs.toList.drop 0).take (Try.prog.cellsOf 23) ++ (cs.toList.drop 32).take (Try.prog.cellsOf 23)
  rw [h23, List.drop_zero]
  have hlen : cs.toList.length = 64 := by rw [Array.length_toList, hsz, h35]
  rw [List.take_of_length_le (l := cs.toList.drop 32) (by rw [List.length_drop]; omega), List.take_append_drop]
end Go.Proofs.Ytgdimnbdnepbgaa
/- Two multiples in one loop. No statement is proved here. -/
namespace Go.Proofs.Ytgdimnbdnepbgaa
open Go.RowKit
set_option linter.unusedVariables false
set_option maxRecDepth 40000
set_option linter.unusedSimpArgs false

theorem wq_nilc {P : Program} {ops : Array Oper} {rest : List Oper} {o : Oper} {a : Act} {w0 : World} {Q : Act → Prop} (hw : Region.wanted o (yielded ops a.tmps) = true) (x : Operand) (ho : o.op = .nilCheck x) (A : Addr) (hx : a.eval x = .pointer (some A)) (h : WQ P ops (CB w0) Q rest (a.put o.dst (.pointer (some A)))) : WQ P ops (CB w0) Q (o :: rest) a :=
  ⟨qb_val hw _ (fun w _ => exec_nil x ho A hx) h.out⟩
theorem run_eq102 (a b c d : Bool) (w : World) : (binOp .eql 102 (.agg #[.bool a, .bool b]) (.agg #[.bool c, .bool d])).run Try.prog w = .ok (.bool ((a == c) && (b == d))) w := by
  cases a <;> cases b <;> cases c <;> cases d <;> kernel_rfl
theorem exec_eq102 {o : Oper} {act : Act} {w : World} (x y : Operand) (ho : o.op = .binOp .eql 102 x y 102) (a b c d r : Bool) (hx : act.eval x = .agg #[.bool a, .bool b]) (hy : act.eval y = .agg #[.bool c, .bool d]) (hr : ((a == c) && (b == d)) = r) : (execOp act.eval o).run Try.prog w = .ok (.value (.bool r)) w := by
  have hg : (eqGuard .eql 102 x y (.agg #[.bool a, .bool b]) (.agg #[.bool c, .bool d])).run Try.prog w = .ok () w := run_eqGuard_agg w .eql 102 x y _ _ Try.eqGuardType102
  unfold execOp
  simp only [ho, hx, hy, Sem.run_bind, Sem.run_pure, Result.andThen_ok, hg, run_eq102, hr]
theorem eread_zero (r0 r1 r2 r3 : Nat) (w : World) (g g1 : Nat) (h0 : RAt w g [r0, r1, r2, r3]) (h1 : RAt w g1 [0, 1]) (n1 : g ≠ g1) :
    Calls Try.prog 80 #[.pointer (some ⟨g, 0, none⟩), .pointer (some ⟨g1, 0, none⟩)] w (SetsR g (X4.of EC.zero).l w) := by
  have h := eread_any 0 1 r0 r1 r2 r3 w g g1 h0 (by rw [v0, v1]; exact h1) n1
  rw [of_l]
  exact h

set_option maxHeartbeats 8000000 in
theorem mul2_any (P Q : EC.Pt) (xp xq R0 : X4) (a b : Nat) (w : World) (g ga gp gb gq : Nat) (HPI : Hid (xp.IsP P)) (HQI : Hid (xq.IsP Q)) (HaT : Hid (a < TT)) (HbT : Hid (b < TT))
    (HG0 : Hid (RAt w g R0.l)) (HA0 : Hid (RAt w ga [a])) (HP0 : Hid (RAt w gp xp.l)) (HB0 : Hid (RAt w gb [b])) (HQ0 : Hid (RAt w gq xq.l))
    (NHA : Hid (ga ≠ g)) (NHP : Hid (gp ≠ g)) (NHB : Hid (gb ≠ g)) (NHQ : Hid (gq ≠ g)) :
    Calls Try.prog 88 #[.pointer (some ⟨g, 0, none⟩), .pointer (some ⟨ga, 0, none⟩), .pointer (some ⟨gp, 0, none⟩), .pointer (some ⟨gb, 0, none⟩), .pointer (some ⟨gq, 0, none⟩)] w (fun e w' => ∃ R : X4, R.IsP (EC.two P Q a b 0) ∧ SetsR g R.l w e w') := by
  go_enter Try.func88, Try.ntmps88
  go_wp2_with (first | ((with_reducible show wpList _ _ _ (⟨some 10, .alloc 76, _, _, _, _⟩ :: _) _ _); go_must (refine wpList_alloc_row rfl 76 rfl (.agg (zbs 128)) zero76 ?_; intro w1 h1 z1 g1; have HX1 : Hid (RAt w1 w.heap.size [0, 0, 0, 0]) := Lib.hid (zrow (k := 4) h1); have G1 := Lib.hid g1; clear h1 z1 g1)) | fail)
  have HG1 := Lib.hid (HG0.out.grown G1.out (by simp))
  have HA1 := Lib.hid (HA0.out.grown G1.out (by simp))
  have HP1 := Lib.hid (HP0.out.grown G1.out (by simp))
  have HB1 := Lib.hid (HB0.out.grown G1.out (by simp))
  have HQ1 := Lib.hid (HQ0.out.grown G1.out (by simp))
  have HK1 : Hid (Keeps (· = g) w w1) := Lib.hid ((Keeps.refl _ _).alloc G1.out)
  have NHX : Hid (w.heap.size ≠ g) := Lib.hid (by have := HG0.out.lt; omega)
  have XHG : Hid (g ≠ w.heap.size) := Lib.hid (by have := HG0.out.lt; omega)
  have XHA : Hid (ga ≠ w.heap.size) := Lib.hid (by have := HA0.out.lt; omega)
  have XHP : Hid (gp ≠ w.heap.size) := Lib.hid (by have := HP0.out.lt; omega)
  have XHB : Hid (gb ≠ w.heap.size) := Lib.hid (by have := HB0.out.lt; omega)
  have XHQ : Hid (gq ≠ w.heap.size) := Lib.hid (by have := HQ0.out.lt; omega)
  have HS : Hid (w.heap.size ≤ w.heap.size) := Lib.hid (Nat.le_refl _)
  clear HG0 HA0 HP0 HB0 HQ0 G1
  obtain ⟨xb, hxb⟩ : ∃ x, x = xp.sum xq := ⟨_, rfl⟩
  have HXI : Hid (xb.IsP (EC.add P Q)) := Lib.hid (by rw [hxb]; exact HPI.out.add HQI.out)
  refine (eadd_any xp xq 0 0 0 0 _ w.heap.size gp gq HX1.out HP1.out HQ1.out).mono ?_
  rintro e w2 ⟨rfl, hr, hk⟩
  rw [← hxb] at hr
  clear hxb
  have HX2 := Lib.hid hr
  have HG2 := Lib.hid (HG1.out.keeps hk (by have := XHG.out; show ¬ _ = _; omega))
  have HA2 := Lib.hid (HA1.out.keeps hk (by have := XHA.out; show ¬ _ = _; omega))
  have HP2 := Lib.hid (HP1.out.keeps hk (by have := XHP.out; show ¬ _ = _; omega))
  have HB2 := Lib.hid (HB1.out.keeps hk (by have := XHB.out; show ¬ _ = _; omega))
  have HQ2 := Lib.hid (HQ1.out.keeps hk (by have := XHQ.out; show ¬ _ = _; omega))
  have HK2 := Lib.hid (HK1.out.method hk HS.out)
  clear hr hk
  clear HG1 HA1 HP1 HB1 HQ1 HX1 HK1
  go_wp2_with fail
  refine (Zero_any _).mono ?_
  rintro e w3 ⟨rfl, hb⟩
  have HG3 := Lib.hid (HG2.out.keep hb)
  have HA3 := Lib.hid (HA2.out.keep hb)
  have HP3 := Lib.hid (HP2.out.keep hb)
  have HB3 := Lib.hid (HB2.out.keep hb)
  have HQ3 := Lib.hid (HQ2.out.keep hb)
  have HX3 := Lib.hid (HX2.out.keep hb)
  have HK3 := Lib.hid (HK2.out.call hb)
  clear hb
  clear HG2 HA2 HP2 HB2 HQ2 HX2 HK2
  go_wp2_with (first | ((with_reducible show wpList _ _ _ (⟨some 11, .alloc 35, _, _, _, _⟩ :: _) _ _); go_must (refine wpList_alloc_row rfl 35 rfl (.agg (zbs 64)) zero35 ?_; intro w4 h1 z1 g1; have R4 : Hid (RAt w4 w3.heap.size [0, 0]) := Lib.hid (zrow (k := 2) h1); have G4 := Lib.hid g1; clear h1 z1 g1)) | ((with_reducible show wpList _ _ _ (⟨none, .store 35 (.tmp 11) (.tmp 16), _, _, _, _⟩ :: _) _ _); go_must (refine wpList_storeP rfl (.tmp 11) (.tmp 16) rfl (w3.heap.size) [0, 0] 0 1 rfl rfl R4.out rfl ?_; intro w5 hr5 hg5 hz5; have HZ5 := Lib.hid hr5; have G5 := Lib.hid hg5; clear hr5 hg5 hz5)) | fail)
  have HG5 := Lib.hid ((HG3.out.grown G4.out (by simp)).grown G5.out (by have := HG3.out.lt; simp; omega))
  have HA5 := Lib.hid ((HA3.out.grown G4.out (by simp)).grown G5.out (by have := HA3.out.lt; simp; omega))
  have HP5 := Lib.hid ((HP3.out.grown G4.out (by simp)).grown G5.out (by have := HP3.out.lt; simp; omega))
  have HB5 := Lib.hid ((HB3.out.grown G4.out (by simp)).grown G5.out (by have := HB3.out.lt; simp; omega))
  have HQ5 := Lib.hid ((HQ3.out.grown G4.out (by simp)).grown G5.out (by have := HQ3.out.lt; simp; omega))
  have HX5 := Lib.hid ((HX3.out.grown G4.out (by simp)).grown G5.out (by have := HX3.out.lt; simp; omega))
  have HK5 := Lib.hid ((HK3.out.alloc G4.out).newrow G5.out HK3.out.size)
  have HNZ : Hid (g ≠ w3.heap.size) := Lib.hid (by have := HG3.out.lt; omega)
  clear G4 G5 R4
  clear HG3 HA3 HP3 HB3 HQ3 HX3 HK3
  generalize w3.heap.size = gz at *
  skip
  refine (eread_zero _ _ _ _ _ g gz HG5.out HZ5.out HNZ.out).mono ?_
  rintro e w6 ⟨rfl, hr, hk⟩
  have HA6 := Lib.hid (HA5.out.keeps hk (by have := NHA.out; show ¬ _ = _; omega))
  have HP6 := Lib.hid (HP5.out.keeps hk (by have := NHP.out; show ¬ _ = _; omega))
  have HB6 := Lib.hid (HB5.out.keeps hk (by have := NHB.out; show ¬ _ = _; omega))
  have HQ6 := Lib.hid (HQ5.out.keeps hk (by have := NHQ.out; show ¬ _ = _; omega))
  have HX6 := Lib.hid (HX5.out.keeps hk (by have := NHX.out; show ¬ _ = _; omega))
  have HG6 := Lib.hid hr
  have HK6 := Lib.hid (HK5.out.trans hk)
  clear hr hk HZ5 HNZ
  clear HG5 HA5 HP5 HB5 HQ5 HX5 HK5
  go_wp2_with fail
  refine (highest_core a b ga gb _ HA6 HB6 (Lib.hid ⟨Nat.le_refl _, Nat.div_eq_of_lt HaT.out, Nat.div_eq_of_lt HbT.out⟩) (Lib.hid fun i hi w => Bit_any a i HaT.out hi w) (Lib.hid fun i hi w => Bit_any b i HbT.out hi w)).mono ?_
  rintro e w7 ⟨j, hj, rfl, hb⟩
  have HG7 := Lib.hid (HG6.out.keep hb)
  have HA7 := Lib.hid (HA6.out.keep hb)
  have HP7 := Lib.hid (HP6.out.keep hb)
  have HB7 := Lib.hid (HB6.out.keep hb)
  have HQ7 := Lib.hid (HQ6.out.keep hb)
  have HX7 := Lib.hid (HX6.out.keep hb)
  have HK7 := Lib.hid (HK6.out.call hb)
  have HJ := Lib.hid hj
  clear hb hj
  clear HG6 HA6 HP6 HB6 HQ6 HX6 HK6
  go_wp2_with fail
  go_loopw [12] (fun k wr => ∃ (j : Nat) (R : X4), j ≤ 256 ∧ k = .int .i64 ((j : Int) - 1) ∧ R.IsP (EC.two P Q a b j) ∧ RAt wr g R.l ∧ RAt wr ga [a] ∧ RAt wr gp xp.l ∧ RAt wr gb [b] ∧ RAt wr gq xq.l ∧ RAt wr w.heap.size xb.l ∧ Keeps (· = g) w wr) (fun k _ => ((intOf k) + 1).toNat)
  case atStart =>
    obtain ⟨h1, h2, h3⟩ := HJ.out
    refine ⟨j, X4.of EC.zero, h1, rfl, ?_, HG7.out, HA7.out, HP7.out, HB7.out, HQ7.out, HX7.out, HK7.out⟩
    have e : EC.two P Q a b j = EC.zero := by
      unfold Ed.two
      rw [h2, h3]
      exact EC.add_zero _
    rw [e]
    exact X4.IsP.of _
  case round =>
    obtain ⟨j, R, hj, rfl, hi, h1, h2, h3, h4, h5, h6, h7⟩ := hrel
    have HI := Lib.hid hi
    have HG := Lib.hid h1
    have HA := Lib.hid h2
    have HP := Lib.hid h3
    have HB := Lib.hid h4
    have HQ := Lib.hid h5
    have HX := Lib.hid h6
    have HK := Lib.hid h7
    clear hi h1 h2 h3 h4 h5 h6 h7 HJ HG7 HA7 HP7 HB7 HQ7 HX7 HK7
    by_cases h0 : j = 0
    · subst h0
      go_wp2_with fail
      refine bodyPost_end (results_none rfl _ _ _) rfl ?_
      exact ⟨R, HI.out, rfl, HG.out, HK.out⟩
    · obtain ⟨i, rfl⟩ : ∃ i, j = i + 1 := ⟨j - 1, by omega⟩
      rw [show ((i + 1 : Nat) : Int) - 1 = (i : Int) from by omega]
      have hii : (0 : Int) ≤ (i : Int) := by omega
      have hib : (i : Int) < 256 := by omega
      go_wp2_with fail
      refine (edouble_any R _ _ _ _ _ g g HG.out HG.out).mono ?_
      rintro e y0 ⟨rfl, hr, hk⟩
      have HA2 := Lib.hid (HA.out.keeps hk (by have := NHA.out; show ¬ _ = _; omega))
      have HP2 := Lib.hid (HP.out.keeps hk (by have := NHP.out; show ¬ _ = _; omega))
      have HB2 := Lib.hid (HB.out.keeps hk (by have := NHB.out; show ¬ _ = _; omega))
      have HQ2 := Lib.hid (HQ.out.keeps hk (by have := NHQ.out; show ¬ _ = _; omega))
      have HX2 := Lib.hid (HX.out.keeps hk (by have := NHX.out; show ¬ _ = _; omega))
      have HG2 := Lib.hid hr
      have HK2 := Lib.hid (HK.out.trans hk)
      clear hr hk HG HA HP HB HQ HX HK
      go_wp2_with fail
      by_cases ea : a / 2 ^ i % 2 = 1
      · by_cases eb : b / 2 ^ i % 2 = 1
        · have HBA : Hid (∀ w, Calls Try.prog 103 #[vN a, .int .i64 (i : Nat)] w (Gives (.bool true) w)) := Lib.hid fun w => by have h := Bit_any a i HaT.out (by omega) w; rw [decide_eq_true ea] at h; exact h
          have HBB : Hid (∀ w, Calls Try.prog 103 #[vN b, .int .i64 (i : Nat)] w (Gives (.bool true) w)) := Lib.hid fun w => by have h := Bit_any b i HbT.out (by omega) w; rw [decide_eq_true eb] at h; exact h
          refine region_wq (by kernel_rfl) (by kernel_rfl) ?_
          refine wq_move rfl (.tmp 1) rfl (.pointer (some ⟨ga, 0, none⟩)) rfl ?_
          simp only [Act.put, zA, zB, zC]
          refine wq_nilc rfl (.tmp 29) rfl _ rfl ?_
          simp only [Act.put, zA, zB, zC]
          refine wq_loadF rfl (.tmp 30) rfl (ga) 0 0 rfl [a] a rfl HA2.out rfl ?_
          simp only [Act.put, zA, zB, zC]
          refine wq_move rfl (.tmp 12) rfl (.int .i64 (i : Nat)) rfl ?_
          simp only [Act.put, zA, zB, zC]
          refine wq_call rfl 103 [.tmp 31, .tmp 32] #[23, 3] rfl [vN a, .int .i64 (i : Nat)] rfl (CG103 _) (.bool true) HBA.out ?_
          simp only [Act.put, zA, zB, zC]
          refine wq_move rfl (.tmp 3) rfl (.pointer (some ⟨gb, 0, none⟩)) rfl ?_
          simp only [Act.put, zA, zB, zC]
          refine wq_nilc rfl (.tmp 34) rfl _ rfl ?_
          simp only [Act.put, zA, zB, zC]
          refine wq_loadF rfl (.tmp 35) rfl (gb) 0 0 rfl [b] b rfl HB2.out rfl ?_
          simp only [Act.put, zA, zB, zC]
          refine wq_move rfl (.tmp 12) rfl (.int .i64 (i : Nat)) rfl ?_
          simp only [Act.put, zA, zB, zC]
          refine wq_call rfl 103 [.tmp 36, .tmp 37] #[23, 3] rfl [vN b, .int .i64 (i : Nat)] rfl (CG103 _) (.bool true) HBB.out ?_
          simp only [Act.put, zA, zB, zC]
          refine wq_buildc rfl 102 _ (.agg #[.bool true, .bool true]) rfl (fun w => by kernel_rfl) ?_
          simp only [Act.put, zA, zB, zC]
          refine wq_nil ?_
          intro W hb
          have HG3 := Lib.hid (HG2.out.keep hb)
          have HA3 := Lib.hid (HA2.out.keep hb)
          have HP3 := Lib.hid (HP2.out.keep hb)
          have HB3 := Lib.hid (HB2.out.keep hb)
          have HQ3 := Lib.hid (HQ2.out.keep hb)
          have HX3 := Lib.hid (HX2.out.keep hb)
          have HK3 := Lib.hid (HK2.out.call hb)
          clear hb HBA HBB
          clear HG2 HA2 HP2 HB2 HQ2 HX2 HK2
          go_wp2_with (first | ((with_reducible show wpList _ _ _ (⟨_, .build 102 #[(0, .const (.bool true)), (1, .const (.bool true))], _, _, _, _⟩ :: _) _ _); go_must (refine wpList_exec rfl (.agg #[.bool true, .bool true]) (exec_buildc rfl (by kernel_rfl)) ?_)) | ((with_reducible show wpList _ _ _ (⟨_, .binOp .eql 102 (.tmp 39) (.tmp 41) 102, _, _, _, _⟩ :: _) _ _); go_must (refine wpList_exec rfl (.bool true) (exec_eq102 (.tmp 39) (.tmp 41) rfl true true true true true rfl rfl rfl) ?_)) | fail)
          refine (eadd_any R.dbl xb _ _ _ _ _ g g w.heap.size HG3.out HG3.out HX3.out).mono ?_
          rintro e y1 ⟨rfl, hr, hk⟩
          have HA4 := Lib.hid (HA3.out.keeps hk (by have := NHA.out; show ¬ _ = _; omega))
          have HP4 := Lib.hid (HP3.out.keeps hk (by have := NHP.out; show ¬ _ = _; omega))
          have HB4 := Lib.hid (HB3.out.keeps hk (by have := NHB.out; show ¬ _ = _; omega))
          have HQ4 := Lib.hid (HQ3.out.keeps hk (by have := NHQ.out; show ¬ _ = _; omega))
          have HX4 := Lib.hid (HX3.out.keeps hk (by have := NHX.out; show ¬ _ = _; omega))
          have HG4 := Lib.hid hr
          have HK4 := Lib.hid (HK3.out.trans hk)
          clear hr hk
          clear HG3 HA3 HP3 HB3 HQ3 HX3 HK3
          go_wp2_with fail
          have hd := HI.out.dbl
          refine ⟨⟨i, R.dbl.sum xb, by omega, by go_num, by rw [EC.two_step, ea, eb, EC.sm_one, EC.sm_one]; exact (hd.add HXI.out), HG4.out, HA4.out, HP4.out, HB4.out, HQ4.out, HX4.out, HK4.out⟩, by simp [intOf]⟩
        · have HBA : Hid (∀ w, Calls Try.prog 103 #[vN a, .int .i64 (i : Nat)] w (Gives (.bool true) w)) := Lib.hid fun w => by have h := Bit_any a i HaT.out (by omega) w; rw [decide_eq_true ea] at h; exact h
          have HBB : Hid (∀ w, Calls Try.prog 103 #[vN b, .int .i64 (i : Nat)] w (Gives (.bool false) w)) := Lib.hid fun w => by have h := Bit_any b i HbT.out (by omega) w; rw [decide_eq_false eb] at h; exact h
          refine region_wq (by kernel_rfl) (by kernel_rfl) ?_
          refine wq_move rfl (.tmp 1) rfl (.pointer (some ⟨ga, 0, none⟩)) rfl ?_
          simp only [Act.put, zA, zB, zC]
          refine wq_nilc rfl (.tmp 29) rfl _ rfl ?_
          simp only [Act.put, zA, zB, zC]
          refine wq_loadF rfl (.tmp 30) rfl (ga) 0 0 rfl [a] a rfl HA2.out rfl ?_
          simp only [Act.put, zA, zB, zC]
          refine wq_move rfl (.tmp 12) rfl (.int .i64 (i : Nat)) rfl ?_
          simp only [Act.put, zA, zB, zC]
          refine wq_call rfl 103 [.tmp 31, .tmp 32] #[23, 3] rfl [vN a, .int .i64 (i : Nat)] rfl (CG103 _) (.bool true) HBA.out ?_
          simp only [Act.put, zA, zB, zC]
          refine wq_move rfl (.tmp 3) rfl (.pointer (some ⟨gb, 0, none⟩)) rfl ?_
          simp only [Act.put, zA, zB, zC]
          refine wq_nilc rfl (.tmp 34) rfl _ rfl ?_
          simp only [Act.put, zA, zB, zC]
          refine wq_loadF rfl (.tmp 35) rfl (gb) 0 0 rfl [b] b rfl HB2.out rfl ?_
          simp only [Act.put, zA, zB, zC]
          refine wq_move rfl (.tmp 12) rfl (.int .i64 (i : Nat)) rfl ?_
          simp only [Act.put, zA, zB, zC]
          refine wq_call rfl 103 [.tmp 36, .tmp 37] #[23, 3] rfl [vN b, .int .i64 (i : Nat)] rfl (CG103 _) (.bool false) HBB.out ?_
          simp only [Act.put, zA, zB, zC]
          refine wq_buildc rfl 102 _ (.agg #[.bool true, .bool false]) rfl (fun w => by kernel_rfl) ?_
          simp only [Act.put, zA, zB, zC]
          refine wq_nil ?_
          intro W hb
          have HG3 := Lib.hid (HG2.out.keep hb)
          have HA3 := Lib.hid (HA2.out.keep hb)
          have HP3 := Lib.hid (HP2.out.keep hb)
          have HB3 := Lib.hid (HB2.out.keep hb)
          have HQ3 := Lib.hid (HQ2.out.keep hb)
          have HX3 := Lib.hid (HX2.out.keep hb)
          have HK3 := Lib.hid (HK2.out.call hb)
          clear hb HBA HBB
          clear HG2 HA2 HP2 HB2 HQ2 HX2 HK2
          go_wp2_with (first | ((with_reducible show wpList _ _ _ (⟨_, .build 102 #[(0, .const (.bool true)), (1, .const (.bool true))], _, _, _, _⟩ :: _) _ _); go_must (refine wpList_exec rfl (.agg #[.bool true, .bool true]) (exec_buildc rfl (by kernel_rfl)) ?_)) | ((with_reducible show wpList _ _ _ (⟨_, .binOp .eql 102 (.tmp 39) (.tmp 41) 102, _, _, _, _⟩ :: _) _ _); go_must (refine wpList_exec rfl (.bool false) (exec_eq102 (.tmp 39) (.tmp 41) rfl true false true true false rfl rfl rfl) ?_)) | ((with_reducible show wpList _ _ _ (⟨_, .build 102 #[(0, .const (.bool true)), (1, .const (.bool false))], _, _, _, _⟩ :: _) _ _); go_must (refine wpList_exec rfl (.agg #[.bool true, .bool false]) (exec_buildc rfl (by kernel_rfl)) ?_)) | ((with_reducible show wpList _ _ _ (⟨_, .binOp .eql 102 (.tmp 39) (.tmp 47) 102, _, _, _, _⟩ :: _) _ _); go_must (refine wpList_exec rfl (.bool true) (exec_eq102 (.tmp 39) (.tmp 47) rfl true false true false true rfl rfl rfl) ?_)) | fail)
          refine (eadd_any R.dbl xp _ _ _ _ _ g g gp HG3.out HG3.out HP3.out).mono ?_
          rintro e y1 ⟨rfl, hr, hk⟩
          have HA4 := Lib.hid (HA3.out.keeps hk (by have := NHA.out; show ¬ _ = _; omega))
          have HP4 := Lib.hid (HP3.out.keeps hk (by have := NHP.out; show ¬ _ = _; omega))
          have HB4 := Lib.hid (HB3.out.keeps hk (by have := NHB.out; show ¬ _ = _; omega))
          have HQ4 := Lib.hid (HQ3.out.keeps hk (by have := NHQ.out; show ¬ _ = _; omega))
          have HX4 := Lib.hid (HX3.out.keeps hk (by have := NHX.out; show ¬ _ = _; omega))
          have HG4 := Lib.hid hr
          have HK4 := Lib.hid (HK3.out.trans hk)
          clear hr hk
          clear HG3 HA3 HP3 HB3 HQ3 HX3 HK3
          go_wp2_with fail
          have eb0 : b / 2 ^ i % 2 = 0 := by omega
          have hd := HI.out.dbl
          refine ⟨⟨i, R.dbl.sum xp, by omega, by go_num, by rw [EC.two_step, ea, eb0, EC.sm_one, show EC.sm Q 0 = EC.zero from rfl, EC.add_zero]; exact (hd.add HPI.out), HG4.out, HA4.out, HP4.out, HB4.out, HQ4.out, HX4.out, HK4.out⟩, by simp [intOf]⟩
      · by_cases eb : b / 2 ^ i % 2 = 1
        · have HBA : Hid (∀ w, Calls Try.prog 103 #[vN a, .int .i64 (i : Nat)] w (Gives (.bool false) w)) := Lib.hid fun w => by have h := Bit_any a i HaT.out (by omega) w; rw [decide_eq_false ea] at h; exact h
          have HBB : Hid (∀ w, Calls Try.prog 103 #[vN b, .int .i64 (i : Nat)] w (Gives (.bool true) w)) := Lib.hid fun w => by have h := Bit_any b i HbT.out (by omega) w; rw [decide_eq_true eb] at h; exact h
          refine region_wq (by kernel_rfl) (by kernel_rfl) ?_
          refine wq_move rfl (.tmp 1) rfl (.pointer (some ⟨ga, 0, none⟩)) rfl ?_
          simp only [Act.put, zA, zB, zC]
          refine wq_nilc rfl (.tmp 29) rfl _ rfl ?_
          simp only [Act.put, zA, zB, zC]
          refine wq_loadF rfl (.tmp 30) rfl (ga) 0 0 rfl [a] a rfl HA2.out rfl ?_
          simp only [Act.put, zA, zB, zC]
          refine wq_move rfl (.tmp 12) rfl (.int .i64 (i : Nat)) rfl ?_
          simp only [Act.put, zA, zB, zC]
          refine wq_call rfl 103 [.tmp 31, .tmp 32] #[23, 3] rfl [vN a, .int .i64 (i : Nat)] rfl (CG103 _) (.bool false) HBA.out ?_
          simp only [Act.put, zA, zB, zC]
          refine wq_move rfl (.tmp 3) rfl (.pointer (some ⟨gb, 0, none⟩)) rfl ?_
          simp only [Act.put, zA, zB, zC]
          refine wq_nilc rfl (.tmp 34) rfl _ rfl ?_
          simp only [Act.put, zA, zB, zC]
          refine wq_loadF rfl (.tmp 35) rfl (gb) 0 0 rfl [b] b rfl HB2.out rfl ?_
          simp only [Act.put, zA, zB, zC]
          refine wq_move rfl (.tmp 12) rfl (.int .i64 (i : Nat)) rfl ?_
          simp only [Act.put, zA, zB, zC]
          refine wq_call rfl 103 [.tmp 36, .tmp 37] #[23, 3] rfl [vN b, .int .i64 (i : Nat)] rfl (CG103 _) (.bool true) HBB.out ?_
          simp only [Act.put, zA, zB, zC]
          refine wq_buildc rfl 102 _ (.agg #[.bool false, .bool true]) rfl (fun w => by kernel_rfl) ?_
          simp only [Act.put, zA, zB, zC]
          refine wq_nil ?_
          intro W hb
          have HG3 := Lib.hid (HG2.out.keep hb)
          have HA3 := Lib.hid (HA2.out.keep hb)
          have HP3 := Lib.hid (HP2.out.keep hb)
          have HB3 := Lib.hid (HB2.out.keep hb)
          have HQ3 := Lib.hid (HQ2.out.keep hb)
          have HX3 := Lib.hid (HX2.out.keep hb)
          have HK3 := Lib.hid (HK2.out.call hb)
          clear hb HBA HBB
          clear HG2 HA2 HP2 HB2 HQ2 HX2 HK2
          go_wp2_with (first | ((with_reducible show wpList _ _ _ (⟨_, .build 102 #[(0, .const (.bool true)), (1, .const (.bool true))], _, _, _, _⟩ :: _) _ _); go_must (refine wpList_exec rfl (.agg #[.bool true, .bool true]) (exec_buildc rfl (by kernel_rfl)) ?_)) | ((with_reducible show wpList _ _ _ (⟨_, .binOp .eql 102 (.tmp 39) (.tmp 41) 102, _, _, _, _⟩ :: _) _ _); go_must (refine wpList_exec rfl (.bool false) (exec_eq102 (.tmp 39) (.tmp 41) rfl false true true true false rfl rfl rfl) ?_)) | ((with_reducible show wpList _ _ _ (⟨_, .build 102 #[(0, .const (.bool true)), (1, .const (.bool false))], _, _, _, _⟩ :: _) _ _); go_must (refine wpList_exec rfl (.agg #[.bool true, .bool false]) (exec_buildc rfl (by kernel_rfl)) ?_)) | ((with_reducible show wpList _ _ _ (⟨_, .binOp .eql 102 (.tmp 39) (.tmp 47) 102, _, _, _, _⟩ :: _) _ _); go_must (refine wpList_exec rfl (.bool false) (exec_eq102 (.tmp 39) (.tmp 47) rfl false true true false false rfl rfl rfl) ?_)) | ((with_reducible show wpList _ _ _ (⟨_, .build 102 #[(0, .const (.bool false)), (1, .const (.bool true))], _, _, _, _⟩ :: _) _ _); go_must (refine wpList_exec rfl (.agg #[.bool false, .bool true]) (exec_buildc rfl (by kernel_rfl)) ?_)) | ((with_reducible show wpList _ _ _ (⟨_, .binOp .eql 102 (.tmp 39) (.tmp 54) 102, _, _, _, _⟩ :: _) _ _); go_must (refine wpList_exec rfl (.bool true) (exec_eq102 (.tmp 39) (.tmp 54) rfl false true false true true rfl rfl rfl) ?_)) | fail)
          refine (eadd_any R.dbl xq _ _ _ _ _ g g gq HG3.out HG3.out HQ3.out).mono ?_
          rintro e y1 ⟨rfl, hr, hk⟩
          have HA4 := Lib.hid (HA3.out.keeps hk (by have := NHA.out; show ¬ _ = _; omega))
          have HP4 := Lib.hid (HP3.out.keeps hk (by have := NHP.out; show ¬ _ = _; omega))
          have HB4 := Lib.hid (HB3.out.keeps hk (by have := NHB.out; show ¬ _ = _; omega))
          have HQ4 := Lib.hid (HQ3.out.keeps hk (by have := NHQ.out; show ¬ _ = _; omega))
          have HX4 := Lib.hid (HX3.out.keeps hk (by have := NHX.out; show ¬ _ = _; omega))
          have HG4 := Lib.hid hr
          have HK4 := Lib.hid (HK3.out.trans hk)
          clear hr hk
          clear HG3 HA3 HP3 HB3 HQ3 HX3 HK3
          go_wp2_with fail
          have ea0 : a / 2 ^ i % 2 = 0 := by omega
          have hd := HI.out.dbl
          refine ⟨⟨i, R.dbl.sum xq, by omega, by go_num, by rw [EC.two_step, ea0, eb, EC.sm_one, show EC.sm P 0 = EC.zero from rfl, EC.zero_add]; exact (hd.add HQI.out), HG4.out, HA4.out, HP4.out, HB4.out, HQ4.out, HX4.out, HK4.out⟩, by simp [intOf]⟩
        · have HBA : Hid (∀ w, Calls Try.prog 103 #[vN a, .int .i64 (i : Nat)] w (Gives (.bool false) w)) := Lib.hid fun w => by have h := Bit_any a i HaT.out (by omega) w; rw [decide_eq_false ea] at h; exact h
          have HBB : Hid (∀ w, Calls Try.prog 103 #[vN b, .int .i64 (i : Nat)] w (Gives (.bool false) w)) := Lib.hid fun w => by have h := Bit_any b i HbT.out (by omega) w; rw [decide_eq_false eb] at h; exact h
          refine region_wq (by kernel_rfl) (by kernel_rfl) ?_
          refine wq_move rfl (.tmp 1) rfl (.pointer (some ⟨ga, 0, none⟩)) rfl ?_
          simp only [Act.put, zA, zB, zC]
          refine wq_nilc rfl (.tmp 29) rfl _ rfl ?_
          simp only [Act.put, zA, zB, zC]
          refine wq_loadF rfl (.tmp 30) rfl (ga) 0 0 rfl [a] a rfl HA2.out rfl ?_
          simp only [Act.put, zA, zB, zC]
          refine wq_move rfl (.tmp 12) rfl (.int .i64 (i : Nat)) rfl ?_
          simp only [Act.put, zA, zB, zC]
          refine wq_call rfl 103 [.tmp 31, .tmp 32] #[23, 3] rfl [vN a, .int .i64 (i : Nat)] rfl (CG103 _) (.bool false) HBA.out ?_
          simp only [Act.put, zA, zB, zC]
          refine wq_move rfl (.tmp 3) rfl (.pointer (some ⟨gb, 0, none⟩)) rfl ?_
          simp only [Act.put, zA, zB, zC]
          refine wq_nilc rfl (.tmp 34) rfl _ rfl ?_
          simp only [Act.put, zA, zB, zC]
          refine wq_loadF rfl (.tmp 35) rfl (gb) 0 0 rfl [b] b rfl HB2.out rfl ?_
          simp only [Act.put, zA, zB, zC]
          refine wq_move rfl (.tmp 12) rfl (.int .i64 (i : Nat)) rfl ?_
          simp only [Act.put, zA, zB, zC]
          refine wq_call rfl 103 [.tmp 36, .tmp 37] #[23, 3] rfl [vN b, .int .i64 (i : Nat)] rfl (CG103 _) (.bool false) HBB.out ?_
          simp only [Act.put, zA, zB, zC]
          refine wq_buildc rfl 102 _ (.agg #[.bool false, .bool false]) rfl (fun w => by kernel_rfl) ?_
          simp only [Act.put, zA, zB, zC]
          refine wq_nil ?_
          intro W hb
          have HG3 := Lib.hid (HG2.out.keep hb)
          have HA3 := Lib.hid (HA2.out.keep hb)
          have HP3 := Lib.hid (HP2.out.keep hb)
          have HB3 := Lib.hid (HB2.out.keep hb)
          have HQ3 := Lib.hid (HQ2.out.keep hb)
          have HX3 := Lib.hid (HX2.out.keep hb)
          have HK3 := Lib.hid (HK2.out.call hb)
          clear hb HBA HBB
          clear HG2 HA2 HP2 HB2 HQ2 HX2 HK2
          go_wp2_with (first | ((with_reducible show wpList _ _ _ (⟨_, .build 102 #[(0, .const (.bool true)), (1, .const (.bool true))], _, _, _, _⟩ :: _) _ _); go_must (refine wpList_exec rfl (.agg #[.bool true, .bool true]) (exec_buildc rfl (by kernel_rfl)) ?_)) | ((with_reducible show wpList _ _ _ (⟨_, .binOp .eql 102 (.tmp 39) (.tmp 41) 102, _, _, _, _⟩ :: _) _ _); go_must (refine wpList_exec rfl (.bool false) (exec_eq102 (.tmp 39) (.tmp 41) rfl false false true true false rfl rfl rfl) ?_)) | ((with_reducible show wpList _ _ _ (⟨_, .build 102 #[(0, .const (.bool true)), (1, .const (.bool false))], _, _, _, _⟩ :: _) _ _); go_must (refine wpList_exec rfl (.agg #[.bool true, .bool false]) (exec_buildc rfl (by kernel_rfl)) ?_)) | ((with_reducible show wpList _ _ _ (⟨_, .binOp .eql 102 (.tmp 39) (.tmp 47) 102, _, _, _, _⟩ :: _) _ _); go_must (refine wpList_exec rfl (.bool false) (exec_eq102 (.tmp 39) (.tmp 47) rfl false false true false false rfl rfl rfl) ?_)) | ((with_reducible show wpList _ _ _ (⟨_, .build 102 #[(0, .const (.bool false)), (1, .const (.bool true))], _, _, _, _⟩ :: _) _ _); go_must (refine wpList_exec rfl (.agg #[.bool false, .bool true]) (exec_buildc rfl (by kernel_rfl)) ?_)) | ((with_reducible show wpList _ _ _ (⟨_, .binOp .eql 102 (.tmp 39) (.tmp 54) 102, _, _, _, _⟩ :: _) _ _); go_must (refine wpList_exec rfl (.bool false) (exec_eq102 (.tmp 39) (.tmp 54) rfl false false false true false rfl rfl rfl) ?_)) | fail)
          have ea0 : a / 2 ^ i % 2 = 0 := by omega
          have eb0 : b / 2 ^ i % 2 = 0 := by omega
          have hd := HI.out.dbl
          refine ⟨⟨i, R.dbl, by omega, by go_num, by rw [EC.two_step, ea0, eb0, show EC.sm P 0 = EC.zero from rfl, show EC.sm Q 0 = EC.zero from rfl, EC.add_zero, EC.add_zero]; exact hd, HG3.out, HA3.out, HP3.out, HB3.out, HQ3.out, HX3.out, HK3.out⟩, by simp [intOf]⟩
end Go.Proofs.Ytgdimnbdnepbgaa
/- Mul2, Mul, Small. No statement is proved here. -/
namespace Go.Proofs.Ytgdimnbdnepbgaa
open Go.RowKit
set_option linter.unusedVariables false
set_option maxRecDepth 40000
set_option linter.unusedSimpArgs false
def oET0 : Oper := { dst := some 5, op := Op.load 23 (Operand.tmp 2), type := 23, pos := "curve.go:72", after := #[], guard := none }
def oET1 : Oper := { dst := some 6, op := Op.load 35 (Operand.tmp 3), type := 35, pos := "curve.go:72", after := #[], guard := none }
def oET2 : Oper := { dst := some 7, op := Op.build 23 #[], type := 23, pos := "curve.go:72", after := #[], guard := none }
def oET3 : Oper := { dst := some 8, op := Op.call { callee := Callee.value (Operand.func 39), args := #[], argTypes := #[] }, type := 35, pos := "curve.go:72", after := #[], guard := none }
def oET4 : Oper := { dst := some 9, op := Op.call { callee := Callee.value (Operand.func 53), args := #[Operand.tmp 5, Operand.tmp 6, Operand.tmp 7, Operand.tmp 8], argTypes := #[23, 35, 23, 35] }, type := 35, pos := "curve.go:72", after := #[{ on := 0, ground := Ground.data }, { on := 1, ground := Ground.data }, { on := 2, ground := Ground.data }, { on := 3, ground := Ground.data }, { on := 3, ground := Ground.chain }], guard := none }
def oET5 : Oper := { dst := none, op := Op.store 35 (Operand.tmp 4) (Operand.tmp 9), type := 0, pos := "curve.go:72", after := #[{ on := 4, ground := Ground.data }, { on := 4, ground := Ground.chain }, { on := 0, ground := Ground.phase }, { on := 1, ground := Ground.phase }, { on := 2, ground := Ground.phase }, { on := 3, ground := Ground.phase }, { on := 4, ground := Ground.phase }], guard := none }

set_option maxHeartbeats 4000000 in
theorem Mul2_core (a b px py qx qy pt qt rx ry : Nat) (GD : Nat → Nat → Nat → Nat → Prop) (w : World)
    (C1 : Hid (∀ w, Calls Try.prog 40 #[vR [px, py]] w (Gives (.int .i64 0) w))) (C2 : Hid (∀ w, Calls Try.prog 40 #[vR [qx, qy]] w (Gives (.int .i64 0) w)))
    (HR1 : Hid (∀ (w : World) (g g1 : Nat), RAt w g [0, 0, 0, 0] → RAt w g1 [px, py] → g ≠ g1 → Calls Try.prog 80 #[.pointer (some ⟨g, 0, none⟩), .pointer (some ⟨g1, 0, none⟩)] w (SetsR g [px, py, 1, pt] w)))
    (HR2 : Hid (∀ (w : World) (g g1 : Nat), RAt w g [0, 0, 0, 0] → RAt w g1 [qx, qy] → g ≠ g1 → Calls Try.prog 80 #[.pointer (some ⟨g, 0, none⟩), .pointer (some ⟨g1, 0, none⟩)] w (SetsR g [qx, qy, 1, qt] w)))
    (HM : Hid (∀ (w : World) (g ga gp gb gq : Nat), RAt w g [0, 0, 0, 0] → RAt w ga [a] → RAt w gp [px, py, 1, pt] → RAt w gb [b] → RAt w gq [qx, qy, 1, qt] → ga ≠ g → gp ≠ g → gb ≠ g → gq ≠ g → Calls Try.prog 88 #[.pointer (some ⟨g, 0, none⟩), .pointer (some ⟨ga, 0, none⟩), .pointer (some ⟨gp, 0, none⟩), .pointer (some ⟨gb, 0, none⟩), .pointer (some ⟨gq, 0, none⟩)] w (fun e w' => ∃ X Y Z T, GD X Y Z T ∧ SetsR g [X, Y, Z, T] w e w')))
    (HP : Hid (∀ X Y Z T, GD X Y Z T → ∀ (w : World) (g : Nat), RAt w g [X, Y, Z, T] → Calls Try.prog 82 #[.pointer (some ⟨g, 0, none⟩)] w (Gives (vR [rx, ry]) w))) :
    Calls Try.prog 53 #[vN a, vR [px, py], vN b, vR [qx, qy]] w (Gives (vR [rx, ry]) w) := by
  have HF_0 : Hid (Below w.heap.size w w) := Lib.hid (Below.refl _ _)
  go_enter Try.func53, Try.ntmps53
  go_wp2_with (first | ((with_reducible show wpList _ _ _ (⟨some 4, .box 23 (.tmp 0), _, _, _, _⟩ :: _) _ _); go_must (refine wpList_box_row rfl 23 (.tmp 0) rfl (bcs (enc a)).toArray rfl ?_; intro u1 ha1 hza1 hga1; have Nga_1 : Hid (RAt u1 w.heap.size [a]) := Lib.hid (NAt.row ⟨_, ha1⟩); have HF_1 : Hid (Below w.heap.size w u1) := Lib.hid (HF_0.out.grown hga1 HF_0.out.size (by simp)); have HGE1 : Hid (w.heap.size ≤ w.heap.size) := Lib.hid HF_0.out.size; clear ha1 hza1 hga1 HF_0)) | ((with_reducible show wpList _ _ _ (⟨some 5, .box 35 (.tmp 1), _, _, _, _⟩ :: _) _ _); go_must (refine wpList_box_row rfl 35 (.tmp 1) rfl (bcs (encs [px, py])).toArray rfl ?_; intro u2 ha2 hza2 hga2; have Nga_2 := Lib.hid (Nga_1.out.grown hga2 (by simp)); have Ngp_2 : Hid (RAt u2 u1.heap.size [px, py]) := Lib.hid (⟨_, ha2⟩); have HF_2 : Hid (Below w.heap.size w u2) := Lib.hid (HF_1.out.grown hga2 HF_1.out.size (by simp)); have HNE2_0 : Hid (w.heap.size ≠ u1.heap.size) := Lib.hid (by have := Nga_1.out.lt; omega); have HGE2 : Hid (w.heap.size ≤ u1.heap.size) := Lib.hid HF_1.out.size; clear ha2 hza2 hga2 Nga_1 HF_1)) | ((with_reducible show wpList _ _ _ (⟨some 6, .box 23 (.tmp 2), _, _, _, _⟩ :: _) _ _); go_must (refine wpList_box_row rfl 23 (.tmp 2) rfl (bcs (enc b)).toArray rfl ?_; intro u3 ha3 hza3 hga3; have Nga_3 := Lib.hid (Nga_2.out.grown hga3 (by simp)); have Ngp_3 := Lib.hid (Ngp_2.out.grown hga3 (by simp)); have Ngb_3 : Hid (RAt u3 u2.heap.size [b]) := Lib.hid (NAt.row ⟨_, ha3⟩); have HF_3 : Hid (Below w.heap.size w u3) := Lib.hid (HF_2.out.grown hga3 HF_2.out.size (by simp)); have HNE3_1 : Hid (w.heap.size ≠ u2.heap.size) := Lib.hid (by have := Nga_2.out.lt; omega); have HNE3_2 : Hid (u1.heap.size ≠ u2.heap.size) := Lib.hid (by have := Ngp_2.out.lt; omega); have HGE3 : Hid (w.heap.size ≤ u2.heap.size) := Lib.hid HF_2.out.size; clear ha3 hza3 hga3 Nga_2 Ngp_2 HF_2)) | ((with_reducible show wpList _ _ _ (⟨some 7, .box 35 (.tmp 3), _, _, _, _⟩ :: _) _ _); go_must (refine wpList_box_row rfl 35 (.tmp 3) rfl (bcs (encs [qx, qy])).toArray rfl ?_; intro u4 ha4 hza4 hga4; have Nga_4 := Lib.hid (Nga_3.out.grown hga4 (by simp)); have Ngp_4 := Lib.hid (Ngp_3.out.grown hga4 (by simp)); have Ngb_4 := Lib.hid (Ngb_3.out.grown hga4 (by simp)); have Ngq_4 : Hid (RAt u4 u3.heap.size [qx, qy]) := Lib.hid (⟨_, ha4⟩); have HF_4 : Hid (Below w.heap.size w u4) := Lib.hid (HF_3.out.grown hga4 HF_3.out.size (by simp)); have HNE4_3 : Hid (w.heap.size ≠ u3.heap.size) := Lib.hid (by have := Nga_3.out.lt; omega); have HNE4_4 : Hid (u1.heap.size ≠ u3.heap.size) := Lib.hid (by have := Ngp_3.out.lt; omega); have HNE4_5 : Hid (u2.heap.size ≠ u3.heap.size) := Lib.hid (by have := Ngb_3.out.lt; omega); have HGE4 : Hid (w.heap.size ≤ u3.heap.size) := Lib.hid HF_3.out.size; clear ha4 hza4 hga4 Nga_3 Ngp_3 Ngb_3 HF_3)) | ((with_reducible show wpList _ _ _ (⟨some 8, .alloc 35, _, _, _, _⟩ :: _) _ _); go_must (refine wpList_alloc_row rfl 35 rfl (.agg (zbs 64)) zero35 ?_; intro u5 ha5 hza5 hga5; have Nga_5 := Lib.hid (Nga_4.out.grown hga5 (by simp)); have Ngp_5 := Lib.hid (Ngp_4.out.grown hga5 (by simp)); have Ngb_5 := Lib.hid (Ngb_4.out.grown hga5 (by simp)); have Ngq_5 := Lib.hid (Ngq_4.out.grown hga5 (by simp)); have Ngr_5 : Hid (RAt u5 u4.heap.size [0, 0]) := Lib.hid (zrow (k := 2) ha5); have HF_5 : Hid (Below w.heap.size w u5) := Lib.hid (HF_4.out.grown hga5 HF_4.out.size (by simp)); have HNE5_6 : Hid (w.heap.size ≠ u4.heap.size) := Lib.hid (by have := Nga_4.out.lt; omega); have HNE5_7 : Hid (u1.heap.size ≠ u4.heap.size) := Lib.hid (by have := Ngp_4.out.lt; omega); have HNE5_8 : Hid (u2.heap.size ≠ u4.heap.size) := Lib.hid (by have := Ngb_4.out.lt; omega); have HNE5_9 : Hid (u3.heap.size ≠ u4.heap.size) := Lib.hid (by have := Ngq_4.out.lt; omega); have HGE5 : Hid (w.heap.size ≤ u4.heap.size) := Lib.hid HF_4.out.size; clear ha5 hza5 hga5 Nga_4 Ngp_4 Ngb_4 Ngq_4 HF_4)) | ((with_reducible show wpList _ _ _ (⟨_, .load 35 (.tmp 5), _, _, _, _⟩ :: _) _ _); go_must (refine wpList_exec rfl (vR [px, py]) (exec_loadP (.tmp 5) rfl (u1.heap.size) px py rfl Ngp_5.out) ?_)) | fail)
  generalize u1.heap.size = gp at *
  generalize u2.heap.size = gb at *
  generalize u3.heap.size = gq at *
  generalize u4.heap.size = gr at *
  refine (C1.out _).mono ?_
  rintro e6 x6 ⟨rfl, hb6⟩
  have Nga_6 := hKq Nga_5 hb6
  have Ngp_6 := hKq Ngp_5 hb6
  have Ngb_6 := hKq Ngb_5 hb6
  have Ngq_6 := hKq Ngq_5 hb6
  have Ngr_6 := hKq Ngr_5 hb6
  have HF_6 := fTq HF_5 hb6
  clear hb6 Nga_5 Ngp_5 Ngb_5 Ngq_5 Ngr_5 HF_5
  go_wp2_with (first | ((with_reducible show wpList _ _ _ (⟨_, .load 35 (.tmp 7), _, _, _, _⟩ :: _) _ _); go_must (refine wpList_exec rfl (vR [qx, qy]) (exec_loadP (.tmp 7) rfl (gq) qx qy rfl Ngq_6.out) ?_)) | fail)
  refine (C2.out _).mono ?_
  rintro e7 x7 ⟨rfl, hb7⟩
  have Nga_7 := hKq Nga_6 hb7
  have Ngp_7 := hKq Ngp_6 hb7
  have Ngb_7 := hKq Ngb_6 hb7
  have Ngq_7 := hKq Ngq_6 hb7
  have Ngr_7 := hKq Ngr_6 hb7
  have HF_7 := fTq HF_6 hb7
  clear hb7 Nga_6 Ngp_6 Ngb_6 Ngq_6 Ngr_6 HF_6
  go_wp2_with (first | ((with_reducible show wpList _ _ _ (⟨some 9, .alloc 76, _, _, _, _⟩ :: _) _ _); go_must (refine wpList_alloc_row rfl 76 rfl (.agg (zbs 128)) zero76 ?_; intro u8 ha8 hza8 hga8; have Nga_8 := Lib.hid (Nga_7.out.grown hga8 (by simp)); have Ngp_8 := Lib.hid (Ngp_7.out.grown hga8 (by simp)); have Ngb_8 := Lib.hid (Ngb_7.out.grown hga8 (by simp)); have Ngq_8 := Lib.hid (Ngq_7.out.grown hga8 (by simp)); have Ngr_8 := Lib.hid (Ngr_7.out.grown hga8 (by simp)); have Ngu_8 : Hid (RAt u8 x7.heap.size [0, 0, 0, 0]) := Lib.hid (zrow (k := 4) ha8); have HF_8 : Hid (Below w.heap.size w u8) := Lib.hid (HF_7.out.grown hga8 HF_7.out.size (by simp)); have HNE8_10 : Hid (w.heap.size ≠ x7.heap.size) := Lib.hid (by have := Nga_7.out.lt; omega); have HNE8_11 : Hid (gp ≠ x7.heap.size) := Lib.hid (by have := Ngp_7.out.lt; omega); have HNE8_12 : Hid (gb ≠ x7.heap.size) := Lib.hid (by have := Ngb_7.out.lt; omega); have HNE8_13 : Hid (gq ≠ x7.heap.size) := Lib.hid (by have := Ngq_7.out.lt; omega); have HNE8_14 : Hid (gr ≠ x7.heap.size) := Lib.hid (by have := Ngr_7.out.lt; omega); have HGE8 : Hid (w.heap.size ≤ x7.heap.size) := Lib.hid HF_7.out.size; clear ha8 hza8 hga8 Nga_7 Ngp_7 Ngb_7 Ngq_7 Ngr_7 HF_7)) | ((with_reducible show wpList _ _ _ (⟨some 10, .alloc 76, _, _, _, _⟩ :: _) _ _); go_must (refine wpList_alloc_row rfl 76 rfl (.agg (zbs 128)) zero76 ?_; intro u9 ha9 hza9 hga9; have Nga_9 := Lib.hid (Nga_8.out.grown hga9 (by simp)); have Ngp_9 := Lib.hid (Ngp_8.out.grown hga9 (by simp)); have Ngb_9 := Lib.hid (Ngb_8.out.grown hga9 (by simp)); have Ngq_9 := Lib.hid (Ngq_8.out.grown hga9 (by simp)); have Ngr_9 := Lib.hid (Ngr_8.out.grown hga9 (by simp)); have Ngu_9 := Lib.hid (Ngu_8.out.grown hga9 (by simp)); have Ngv_9 : Hid (RAt u9 u8.heap.size [0, 0, 0, 0]) := Lib.hid (zrow (k := 4) ha9); have HF_9 : Hid (Below w.heap.size w u9) := Lib.hid (HF_8.out.grown hga9 HF_8.out.size (by simp)); have HNE9_15 : Hid (w.heap.size ≠ u8.heap.size) := Lib.hid (by have := Nga_8.out.lt; omega); have HNE9_16 : Hid (gp ≠ u8.heap.size) := Lib.hid (by have := Ngp_8.out.lt; omega); have HNE9_17 : Hid (gb ≠ u8.heap.size) := Lib.hid (by have := Ngb_8.out.lt; omega); have HNE9_18 : Hid (gq ≠ u8.heap.size) := Lib.hid (by have := Ngq_8.out.lt; omega); have HNE9_19 : Hid (gr ≠ u8.heap.size) := Lib.hid (by have := Ngr_8.out.lt; omega); have HNE9_20 : Hid (x7.heap.size ≠ u8.heap.size) := Lib.hid (by have := Ngu_8.out.lt; omega); have HGE9 : Hid (w.heap.size ≤ u8.heap.size) := Lib.hid HF_8.out.size; clear ha9 hza9 hga9 Nga_8 Ngp_8 Ngb_8 Ngq_8 Ngr_8 Ngu_8 HF_8)) | ((with_reducible show wpList _ _ _ (⟨some 11, .alloc 76, _, _, _, _⟩ :: _) _ _); go_must (refine wpList_alloc_row rfl 76 rfl (.agg (zbs 128)) zero76 ?_; intro u10 ha10 hza10 hga10; have Nga_10 := Lib.hid (Nga_9.out.grown hga10 (by simp)); have Ngp_10 := Lib.hid (Ngp_9.out.grown hga10 (by simp)); have Ngb_10 := Lib.hid (Ngb_9.out.grown hga10 (by simp)); have Ngq_10 := Lib.hid (Ngq_9.out.grown hga10 (by simp)); have Ngr_10 := Lib.hid (Ngr_9.out.grown hga10 (by simp)); have Ngu_10 := Lib.hid (Ngu_9.out.grown hga10 (by simp)); have Ngv_10 := Lib.hid (Ngv_9.out.grown hga10 (by simp)); have Ngw_10 : Hid (RAt u10 u9.heap.size [0, 0, 0, 0]) := Lib.hid (zrow (k := 4) ha10); have HF_10 : Hid (Below w.heap.size w u10) := Lib.hid (HF_9.out.grown hga10 HF_9.out.size (by simp)); have HNE10_21 : Hid (w.heap.size ≠ u9.heap.size) := Lib.hid (by have := Nga_9.out.lt; omega); have HNE10_22 : Hid (gp ≠ u9.heap.size) := Lib.hid (by have := Ngp_9.out.lt; omega); have HNE10_23 : Hid (gb ≠ u9.heap.size) := Lib.hid (by have := Ngb_9.out.lt; omega); have HNE10_24 : Hid (gq ≠ u9.heap.size) := Lib.hid (by have := Ngq_9.out.lt; omega); have HNE10_25 : Hid (gr ≠ u9.heap.size) := Lib.hid (by have := Ngr_9.out.lt; omega); have HNE10_26 : Hid (x7.heap.size ≠ u9.heap.size) := Lib.hid (by have := Ngu_9.out.lt; omega); have HNE10_27 : Hid (u8.heap.size ≠ u9.heap.size) := Lib.hid (by have := Ngv_9.out.lt; omega); have HGE10 : Hid (w.heap.size ≤ u9.heap.size) := Lib.hid HF_9.out.size; clear ha10 hza10 hga10 Nga_9 Ngp_9 Ngb_9 Ngq_9 Ngr_9 Ngu_9 Ngv_9 HF_9)) | fail)
  generalize x7.heap.size = gu at *
  generalize u8.heap.size = gv at *
  generalize u9.heap.size = gw at *
  refine (HR1.out _ _ _ Ngu_10.out Ngp_10.out HNE8_11.out.symm).mono ?_
  rintro e11 x11 ⟨rfl, hr11, hk11⟩
  have Nga_11 := Lib.hid (Nga_10.out.keeps hk11 (by have := HNE8_10.out; show ¬ _ = _; omega))
  have Ngp_11 := Lib.hid (Ngp_10.out.keeps hk11 (by have := HNE8_11.out; show ¬ _ = _; omega))
  have Ngb_11 := Lib.hid (Ngb_10.out.keeps hk11 (by have := HNE8_12.out; show ¬ _ = _; omega))
  have Ngq_11 := Lib.hid (Ngq_10.out.keeps hk11 (by have := HNE8_13.out; show ¬ _ = _; omega))
  have Ngr_11 := Lib.hid (Ngr_10.out.keeps hk11 (by have := HNE8_14.out; show ¬ _ = _; omega))
  have Ngu_11 : Hid (RAt x11 gu [px, py, 1, pt]) := Lib.hid hr11
  have Ngv_11 := Lib.hid (Ngv_10.out.keeps hk11 (by have := HNE9_20.out; show ¬ _ = _; omega))
  have Ngw_11 := Lib.hid (Ngw_10.out.keeps hk11 (by have := HNE10_26.out; show ¬ _ = _; omega))
  have HF_11 : Hid (Below w.heap.size w x11) := Lib.hid (HF_10.out.trans (hk11.below HF_10.out.size (fun k hlt => by have := HGE8.out; show ¬ _ = _; omega)))
  clear hr11 hk11 Nga_10 Ngp_10 Ngb_10 Ngq_10 Ngr_10 Ngu_10 Ngv_10 Ngw_10 HF_10
  go_wp2_with fail
  refine (HR2.out _ _ _ Ngv_11.out Ngq_11.out HNE9_18.out.symm).mono ?_
  rintro e12 x12 ⟨rfl, hr12, hk12⟩
  have Nga_12 := Lib.hid (Nga_11.out.keeps hk12 (by have := HNE9_15.out; show ¬ _ = _; omega))
  have Ngp_12 := Lib.hid (Ngp_11.out.keeps hk12 (by have := HNE9_16.out; show ¬ _ = _; omega))
  have Ngb_12 := Lib.hid (Ngb_11.out.keeps hk12 (by have := HNE9_17.out; show ¬ _ = _; omega))
  have Ngq_12 := Lib.hid (Ngq_11.out.keeps hk12 (by have := HNE9_18.out; show ¬ _ = _; omega))
  have Ngr_12 := Lib.hid (Ngr_11.out.keeps hk12 (by have := HNE9_19.out; show ¬ _ = _; omega))
  have Ngu_12 := Lib.hid (Ngu_11.out.keeps hk12 (by have := HNE9_20.out; show ¬ _ = _; omega))
  have Ngv_12 : Hid (RAt x12 gv [qx, qy, 1, qt]) := Lib.hid hr12
  have Ngw_12 := Lib.hid (Ngw_11.out.keeps hk12 (by have := HNE10_27.out; show ¬ _ = _; omega))
  have HF_12 : Hid (Below w.heap.size w x12) := Lib.hid (HF_11.out.trans (hk12.below HF_11.out.size (fun k hlt => by have := HGE9.out; show ¬ _ = _; omega)))
  clear hr12 hk12 Nga_11 Ngp_11 Ngb_11 Ngq_11 Ngr_11 Ngu_11 Ngv_11 Ngw_11 HF_11
  go_wp2_with fail
  refine (HM.out _ _ _ _ _ _ Ngw_12.out Nga_12.out Ngu_12.out Ngb_12.out Ngv_12.out HNE10_21.out HNE10_26.out HNE10_23.out HNE10_27.out).mono ?_
  rintro e13 x13 ⟨X, Y, Z, T, hGD, rfl, hr13, hk13⟩
  have HGD := Lib.hid hGD
  clear hGD
  have Nga_13 := Lib.hid (Nga_12.out.keeps hk13 (by have := HNE10_21.out; show ¬ _ = _; omega))
  have Ngp_13 := Lib.hid (Ngp_12.out.keeps hk13 (by have := HNE10_22.out; show ¬ _ = _; omega))
  have Ngb_13 := Lib.hid (Ngb_12.out.keeps hk13 (by have := HNE10_23.out; show ¬ _ = _; omega))
  have Ngq_13 := Lib.hid (Ngq_12.out.keeps hk13 (by have := HNE10_24.out; show ¬ _ = _; omega))
  have Ngr_13 := Lib.hid (Ngr_12.out.keeps hk13 (by have := HNE10_25.out; show ¬ _ = _; omega))
  have Ngu_13 := Lib.hid (Ngu_12.out.keeps hk13 (by have := HNE10_26.out; show ¬ _ = _; omega))
  have Ngv_13 := Lib.hid (Ngv_12.out.keeps hk13 (by have := HNE10_27.out; show ¬ _ = _; omega))
  have Ngw_13 : Hid (RAt x13 gw [X, Y, Z, T]) := Lib.hid hr13
  have HF_13 : Hid (Below w.heap.size w x13) := Lib.hid (HF_12.out.trans (hk13.below HF_12.out.size (fun k hlt => by have := HGE10.out; show ¬ _ = _; omega)))
  clear hr13 hk13 Nga_12 Ngp_12 Ngb_12 Ngq_12 Ngr_12 Ngu_12 Ngv_12 Ngw_12 HF_12
  go_wp2_with fail
  refine (HP.out X Y Z T HGD.out _ _ Ngw_13.out).mono ?_
  rintro e14 x14 ⟨rfl, hb14⟩
  have Nga_14 := hKq Nga_13 hb14
  have Ngp_14 := hKq Ngp_13 hb14
  have Ngb_14 := hKq Ngb_13 hb14
  have Ngq_14 := hKq Ngq_13 hb14
  have Ngr_14 := hKq Ngr_13 hb14
  have Ngu_14 := hKq Ngu_13 hb14
  have Ngv_14 := hKq Ngv_13 hb14
  have Ngw_14 := hKq Ngw_13 hb14
  have HF_14 := fTq HF_13 hb14
  clear hb14 Nga_13 Ngp_13 Ngb_13 Ngq_13 Ngr_13 Ngu_13 Ngv_13 Ngw_13 HF_13
  go_wp2_with (first | ((with_reducible show wpList _ _ _ (⟨none, .store 35 (.tmp 8) (.tmp 24), _, _, _, _⟩ :: _) _ _); go_must (refine wpList_storeP rfl (.tmp 8) (.tmp 24) rfl (gr) [0, 0] rx ry rfl rfl Ngr_14.out rfl ?_; intro y15 hr15 hg15 hz15; have Nga_15 := hGq Nga_14 hg15 HNE5_6; have Ngp_15 := hGq Ngp_14 hg15 HNE5_7; have Ngb_15 := hGq Ngb_14 hg15 HNE5_8; have Ngq_15 := hGq Ngq_14 hg15 HNE5_9; have Ngr_15 : Hid (RAt y15 gr [rx, ry]) := Lib.hid hr15; have Ngu_15 := hGq Ngu_14 hg15 HNE8_14; have Ngv_15 := hGq Ngv_14 hg15 HNE9_19; have Ngw_15 := hGq Ngw_14 hg15 HNE10_25; have HF_15 : Hid (Below w.heap.size w y15) := Lib.hid (HF_14.out.grown hg15 HF_14.out.size (fun r hr => by injection hr with hr; have := HGE5.out; omega)); clear hr15 hg15 hz15 Nga_14 Ngp_14 Ngb_14 Ngq_14 Ngr_14 Ngu_14 Ngv_14 Ngw_14 HF_14)) | fail)
  go_wp2_with fail
  obtain ⟨tr, htr⟩ := Ngr_15.out
  refine bodyPost_ret (results_cell_row rfl _ _ gr tr (bcs (encs [rx, ry])).toArray _ _ rfl htr Try.underlying35 rfl (by rw [List.size_toArray, bcs_len, encs_len]; exact size35)) rfl ?_
  exact ⟨rfl, HF_15.out⟩

set_option maxHeartbeats 4000000 in
theorem Mul2_bad1 (a b px py qx qy : Nat) (w : World) (C1 : Hid (∀ w, Calls Try.prog 40 #[vR [px, py]] w (Gives (.int .i64 2) w))) (CZ : Hid (∀ w, Calls Try.prog 39 #[] w (Gives (vR [0, 1]) w))) :
    Calls Try.prog 53 #[vN a, vR [px, py], vN b, vR [qx, qy]] w (Gives (vR [0, 1]) w) := by
  have HF_0 : Hid (Below w.heap.size w w) := Lib.hid (Below.refl _ _)
  go_enter Try.func53, Try.ntmps53
  go_wp2_with (first | ((with_reducible show wpList _ _ _ (⟨some 4, .box 23 (.tmp 0), _, _, _, _⟩ :: _) _ _); go_must (refine wpList_box_row rfl 23 (.tmp 0) rfl (bcs (enc a)).toArray rfl ?_; intro u16 ha16 hza16 hga16; have Nga_16 : Hid (RAt u16 w.heap.size [a]) := Lib.hid (NAt.row ⟨_, ha16⟩); have HF_16 : Hid (Below w.heap.size w u16) := Lib.hid (HF_0.out.grown hga16 HF_0.out.size (by simp)); have HGE16 : Hid (w.heap.size ≤ w.heap.size) := Lib.hid HF_0.out.size; clear ha16 hza16 hga16 HF_0)) | ((with_reducible show wpList _ _ _ (⟨some 5, .box 35 (.tmp 1), _, _, _, _⟩ :: _) _ _); go_must (refine wpList_box_row rfl 35 (.tmp 1) rfl (bcs (encs [px, py])).toArray rfl ?_; intro u17 ha17 hza17 hga17; have Nga_17 := Lib.hid (Nga_16.out.grown hga17 (by simp)); have Ngp_17 : Hid (RAt u17 u16.heap.size [px, py]) := Lib.hid (⟨_, ha17⟩); have HF_17 : Hid (Below w.heap.size w u17) := Lib.hid (HF_16.out.grown hga17 HF_16.out.size (by simp)); have HNE17_0 : Hid (w.heap.size ≠ u16.heap.size) := Lib.hid (by have := Nga_16.out.lt; omega); have HGE17 : Hid (w.heap.size ≤ u16.heap.size) := Lib.hid HF_16.out.size; clear ha17 hza17 hga17 Nga_16 HF_16)) | ((with_reducible show wpList _ _ _ (⟨some 6, .box 23 (.tmp 2), _, _, _, _⟩ :: _) _ _); go_must (refine wpList_box_row rfl 23 (.tmp 2) rfl (bcs (enc b)).toArray rfl ?_; intro u18 ha18 hza18 hga18; have Nga_18 := Lib.hid (Nga_17.out.grown hga18 (by simp)); have Ngp_18 := Lib.hid (Ngp_17.out.grown hga18 (by simp)); have Ngb_18 : Hid (RAt u18 u17.heap.size [b]) := Lib.hid (NAt.row ⟨_, ha18⟩); have HF_18 : Hid (Below w.heap.size w u18) := Lib.hid (HF_17.out.grown hga18 HF_17.out.size (by simp)); have HNE18_1 : Hid (w.heap.size ≠ u17.heap.size) := Lib.hid (by have := Nga_17.out.lt; omega); have HNE18_2 : Hid (u16.heap.size ≠ u17.heap.size) := Lib.hid (by have := Ngp_17.out.lt; omega); have HGE18 : Hid (w.heap.size ≤ u17.heap.size) := Lib.hid HF_17.out.size; clear ha18 hza18 hga18 Nga_17 Ngp_17 HF_17)) | ((with_reducible show wpList _ _ _ (⟨some 7, .box 35 (.tmp 3), _, _, _, _⟩ :: _) _ _); go_must (refine wpList_box_row rfl 35 (.tmp 3) rfl (bcs (encs [qx, qy])).toArray rfl ?_; intro u19 ha19 hza19 hga19; have Nga_19 := Lib.hid (Nga_18.out.grown hga19 (by simp)); have Ngp_19 := Lib.hid (Ngp_18.out.grown hga19 (by simp)); have Ngb_19 := Lib.hid (Ngb_18.out.grown hga19 (by simp)); have Ngq_19 : Hid (RAt u19 u18.heap.size [qx, qy]) := Lib.hid (⟨_, ha19⟩); have HF_19 : Hid (Below w.heap.size w u19) := Lib.hid (HF_18.out.grown hga19 HF_18.out.size (by simp)); have HNE19_3 : Hid (w.heap.size ≠ u18.heap.size) := Lib.hid (by have := Nga_18.out.lt; omega); have HNE19_4 : Hid (u16.heap.size ≠ u18.heap.size) := Lib.hid (by have := Ngp_18.out.lt; omega); have HNE19_5 : Hid (u17.heap.size ≠ u18.heap.size) := Lib.hid (by have := Ngb_18.out.lt; omega); have HGE19 : Hid (w.heap.size ≤ u18.heap.size) := Lib.hid HF_18.out.size; clear ha19 hza19 hga19 Nga_18 Ngp_18 Ngb_18 HF_18)) | ((with_reducible show wpList _ _ _ (⟨some 8, .alloc 35, _, _, _, _⟩ :: _) _ _); go_must (refine wpList_alloc_row rfl 35 rfl (.agg (zbs 64)) zero35 ?_; intro u20 ha20 hza20 hga20; have Nga_20 := Lib.hid (Nga_19.out.grown hga20 (by simp)); have Ngp_20 := Lib.hid (Ngp_19.out.grown hga20 (by simp)); have Ngb_20 := Lib.hid (Ngb_19.out.grown hga20 (by simp)); have Ngq_20 := Lib.hid (Ngq_19.out.grown hga20 (by simp)); have Ngr_20 : Hid (RAt u20 u19.heap.size [0, 0]) := Lib.hid (zrow (k := 2) ha20); have HF_20 : Hid (Below w.heap.size w u20) := Lib.hid (HF_19.out.grown hga20 HF_19.out.size (by simp)); have HNE20_6 : Hid (w.heap.size ≠ u19.heap.size) := Lib.hid (by have := Nga_19.out.lt; omega); have HNE20_7 : Hid (u16.heap.size ≠ u19.heap.size) := Lib.hid (by have := Ngp_19.out.lt; omega); have HNE20_8 : Hid (u17.heap.size ≠ u19.heap.size) := Lib.hid (by have := Ngb_19.out.lt; omega); have HNE20_9 : Hid (u18.heap.size ≠ u19.heap.size) := Lib.hid (by have := Ngq_19.out.lt; omega); have HGE20 : Hid (w.heap.size ≤ u19.heap.size) := Lib.hid HF_19.out.size; clear ha20 hza20 hga20 Nga_19 Ngp_19 Ngb_19 Ngq_19 HF_19)) | ((with_reducible show wpList _ _ _ (⟨_, .load 35 (.tmp 5), _, _, _, _⟩ :: _) _ _); go_must (refine wpList_exec rfl (vR [px, py]) (exec_loadP (.tmp 5) rfl (u16.heap.size) px py rfl Ngp_20.out) ?_)) | fail)
  generalize u16.heap.size = gp at *
  generalize u17.heap.size = gb at *
  generalize u18.heap.size = gq at *
  generalize u19.heap.size = gr at *
  refine (C1.out _).mono ?_
  rintro e21 x21 ⟨rfl, hb21⟩
  have Nga_21 := hKq Nga_20 hb21
  have Ngp_21 := hKq Ngp_20 hb21
  have Ngb_21 := hKq Ngb_20 hb21
  have Ngq_21 := hKq Ngq_20 hb21
  have Ngr_21 := hKq Ngr_20 hb21
  have HF_21 := fTq HF_20 hb21
  clear hb21 Nga_20 Ngp_20 Ngb_20 Ngq_20 Ngr_20 HF_20
  go_wp2_with fail
  refine (CZ.out _).mono ?_
  rintro e22 x22 ⟨rfl, hb22⟩
  have Nga_22 := hKq Nga_21 hb22
  have Ngp_22 := hKq Ngp_21 hb22
  have Ngb_22 := hKq Ngb_21 hb22
  have Ngq_22 := hKq Ngq_21 hb22
  have Ngr_22 := hKq Ngr_21 hb22
  have HF_22 := fTq HF_21 hb22
  clear hb22 Nga_21 Ngp_21 Ngb_21 Ngq_21 Ngr_21 HF_21
  go_wp2_with (first | ((with_reducible show wpList _ _ _ (⟨none, .store 35 (.tmp 8) (.tmp 20), _, _, _, _⟩ :: _) _ _); go_must (refine wpList_storeP rfl (.tmp 8) (.tmp 20) rfl (gr) [0, 0] 0 1 rfl rfl Ngr_22.out rfl ?_; intro y23 hr23 hg23 hz23; have Nga_23 := hGq Nga_22 hg23 HNE20_6; have Ngp_23 := hGq Ngp_22 hg23 HNE20_7; have Ngb_23 := hGq Ngb_22 hg23 HNE20_8; have Ngq_23 := hGq Ngq_22 hg23 HNE20_9; have Ngr_23 : Hid (RAt y23 gr [0, 1]) := Lib.hid hr23; have HF_23 : Hid (Below w.heap.size w y23) := Lib.hid (HF_22.out.grown hg23 HF_22.out.size (fun r hr => by injection hr with hr; have := HGE20.out; omega)); clear hr23 hg23 hz23 Nga_22 Ngp_22 Ngb_22 Ngq_22 Ngr_22 HF_22)) | fail)
  go_wp2_with fail
  obtain ⟨tr, htr⟩ := Ngr_23.out
  refine bodyPost_ret (results_cell_row rfl _ _ gr tr (bcs (encs [0, 1])).toArray _ _ rfl htr Try.underlying35 rfl (by rw [List.size_toArray, bcs_len, encs_len]; exact size35)) rfl ?_
  exact ⟨rfl, HF_23.out⟩

set_option maxHeartbeats 4000000 in
theorem Mul2_bad2 (a b px py qx qy : Nat) (w : World) (C1 : Hid (∀ w, Calls Try.prog 40 #[vR [px, py]] w (Gives (.int .i64 0) w))) (C2 : Hid (∀ w, Calls Try.prog 40 #[vR [qx, qy]] w (Gives (.int .i64 2) w))) (CZ : Hid (∀ w, Calls Try.prog 39 #[] w (Gives (vR [0, 1]) w))) :
    Calls Try.prog 53 #[vN a, vR [px, py], vN b, vR [qx, qy]] w (Gives (vR [0, 1]) w) := by
  have HF_0 : Hid (Below w.heap.size w w) := Lib.hid (Below.refl _ _)
  go_enter Try.func53, Try.ntmps53
  go_wp2_with (first | ((with_reducible show wpList _ _ _ (⟨some 4, .box 23 (.tmp 0), _, _, _, _⟩ :: _) _ _); go_must (refine wpList_box_row rfl 23 (.tmp 0) rfl (bcs (enc a)).toArray rfl ?_; intro u24 ha24 hza24 hga24; have Nga_24 : Hid (RAt u24 w.heap.size [a]) := Lib.hid (NAt.row ⟨_, ha24⟩); have HF_24 : Hid (Below w.heap.size w u24) := Lib.hid (HF_0.out.grown hga24 HF_0.out.size (by simp)); have HGE24 : Hid (w.heap.size ≤ w.heap.size) := Lib.hid HF_0.out.size; clear ha24 hza24 hga24 HF_0)) | ((with_reducible show wpList _ _ _ (⟨some 5, .box 35 (.tmp 1), _, _, _, _⟩ :: _) _ _); go_must (refine wpList_box_row rfl 35 (.tmp 1) rfl (bcs (encs [px, py])).toArray rfl ?_; intro u25 ha25 hza25 hga25; have Nga_25 := Lib.hid (Nga_24.out.grown hga25 (by simp)); have Ngp_25 : Hid (RAt u25 u24.heap.size [px, py]) := Lib.hid (⟨_, ha25⟩); have HF_25 : Hid (Below w.heap.size w u25) := Lib.hid (HF_24.out.grown hga25 HF_24.out.size (by simp)); have HNE25_0 : Hid (w.heap.size ≠ u24.heap.size) := Lib.hid (by have := Nga_24.out.lt; omega); have HGE25 : Hid (w.heap.size ≤ u24.heap.size) := Lib.hid HF_24.out.size; clear ha25 hza25 hga25 Nga_24 HF_24)) | ((with_reducible show wpList _ _ _ (⟨some 6, .box 23 (.tmp 2), _, _, _, _⟩ :: _) _ _); go_must (refine wpList_box_row rfl 23 (.tmp 2) rfl (bcs (enc b)).toArray rfl ?_; intro u26 ha26 hza26 hga26; have Nga_26 := Lib.hid (Nga_25.out.grown hga26 (by simp)); have Ngp_26 := Lib.hid (Ngp_25.out.grown hga26 (by simp)); have Ngb_26 : Hid (RAt u26 u25.heap.size [b]) := Lib.hid (NAt.row ⟨_, ha26⟩); have HF_26 : Hid (Below w.heap.size w u26) := Lib.hid (HF_25.out.grown hga26 HF_25.out.size (by simp)); have HNE26_1 : Hid (w.heap.size ≠ u25.heap.size) := Lib.hid (by have := Nga_25.out.lt; omega); have HNE26_2 : Hid (u24.heap.size ≠ u25.heap.size) := Lib.hid (by have := Ngp_25.out.lt; omega); have HGE26 : Hid (w.heap.size ≤ u25.heap.size) := Lib.hid HF_25.out.size; clear ha26 hza26 hga26 Nga_25 Ngp_25 HF_25)) | ((with_reducible show wpList _ _ _ (⟨some 7, .box 35 (.tmp 3), _, _, _, _⟩ :: _) _ _); go_must (refine wpList_box_row rfl 35 (.tmp 3) rfl (bcs (encs [qx, qy])).toArray rfl ?_; intro u27 ha27 hza27 hga27; have Nga_27 := Lib.hid (Nga_26.out.grown hga27 (by simp)); have Ngp_27 := Lib.hid (Ngp_26.out.grown hga27 (by simp)); have Ngb_27 := Lib.hid (Ngb_26.out.grown hga27 (by simp)); have Ngq_27 : Hid (RAt u27 u26.heap.size [qx, qy]) := Lib.hid (⟨_, ha27⟩); have HF_27 : Hid (Below w.heap.size w u27) := Lib.hid (HF_26.out.grown hga27 HF_26.out.size (by simp)); have HNE27_3 : Hid (w.heap.size ≠ u26.heap.size) := Lib.hid (by have := Nga_26.out.lt; omega); have HNE27_4 : Hid (u24.heap.size ≠ u26.heap.size) := Lib.hid (by have := Ngp_26.out.lt; omega); have HNE27_5 : Hid (u25.heap.size ≠ u26.heap.size) := Lib.hid (by have := Ngb_26.out.lt; omega); have HGE27 : Hid (w.heap.size ≤ u26.heap.size) := Lib.hid HF_26.out.size; clear ha27 hza27 hga27 Nga_26 Ngp_26 Ngb_26 HF_26)) | ((with_reducible show wpList _ _ _ (⟨some 8, .alloc 35, _, _, _, _⟩ :: _) _ _); go_must (refine wpList_alloc_row rfl 35 rfl (.agg (zbs 64)) zero35 ?_; intro u28 ha28 hza28 hga28; have Nga_28 := Lib.hid (Nga_27.out.grown hga28 (by simp)); have Ngp_28 := Lib.hid (Ngp_27.out.grown hga28 (by simp)); have Ngb_28 := Lib.hid (Ngb_27.out.grown hga28 (by simp)); have Ngq_28 := Lib.hid (Ngq_27.out.grown hga28 (by simp)); have Ngr_28 : Hid (RAt u28 u27.heap.size [0, 0]) := Lib.hid (zrow (k := 2) ha28); have HF_28 : Hid (Below w.heap.size w u28) := Lib.hid (HF_27.out.grown hga28 HF_27.out.size (by simp)); have HNE28_6 : Hid (w.heap.size ≠ u27.heap.size) := Lib.hid (by have := Nga_27.out.lt; omega); have HNE28_7 : Hid (u24.heap.size ≠ u27.heap.size) := Lib.hid (by have := Ngp_27.out.lt; omega); have HNE28_8 : Hid (u25.heap.size ≠ u27.heap.size) := Lib.hid (by have := Ngb_27.out.lt; omega); have HNE28_9 : Hid (u26.heap.size ≠ u27.heap.size) := Lib.hid (by have := Ngq_27.out.lt; omega); have HGE28 : Hid (w.heap.size ≤ u27.heap.size) := Lib.hid HF_27.out.size; clear ha28 hza28 hga28 Nga_27 Ngp_27 Ngb_27 Ngq_27 HF_27)) | ((with_reducible show wpList _ _ _ (⟨_, .load 35 (.tmp 5), _, _, _, _⟩ :: _) _ _); go_must (refine wpList_exec rfl (vR [px, py]) (exec_loadP (.tmp 5) rfl (u24.heap.size) px py rfl Ngp_28.out) ?_)) | fail)
  generalize u24.heap.size = gp at *
  generalize u25.heap.size = gb at *
  generalize u26.heap.size = gq at *
  generalize u27.heap.size = gr at *
  refine (C1.out _).mono ?_
  rintro e29 x29 ⟨rfl, hb29⟩
  have Nga_29 := hKq Nga_28 hb29
  have Ngp_29 := hKq Ngp_28 hb29
  have Ngb_29 := hKq Ngb_28 hb29
  have Ngq_29 := hKq Ngq_28 hb29
  have Ngr_29 := hKq Ngr_28 hb29
  have HF_29 := fTq HF_28 hb29
  clear hb29 Nga_28 Ngp_28 Ngb_28 Ngq_28 Ngr_28 HF_28
  go_wp2_with (first | ((with_reducible show wpList _ _ _ (⟨_, .load 35 (.tmp 7), _, _, _, _⟩ :: _) _ _); go_must (refine wpList_exec rfl (vR [qx, qy]) (exec_loadP (.tmp 7) rfl (gq) qx qy rfl Ngq_29.out) ?_)) | fail)
  refine (C2.out _).mono ?_
  rintro e30 x30 ⟨rfl, hb30⟩
  have Nga_30 := hKq Nga_29 hb30
  have Ngp_30 := hKq Ngp_29 hb30
  have Ngb_30 := hKq Ngb_29 hb30
  have Ngq_30 := hKq Ngq_29 hb30
  have Ngr_30 := hKq Ngr_29 hb30
  have HF_30 := fTq HF_29 hb30
  clear hb30 Nga_29 Ngp_29 Ngb_29 Ngq_29 Ngr_29 HF_29
  go_wp2_with fail
  refine (CZ.out _).mono ?_
  rintro e31 x31 ⟨rfl, hb31⟩
  have Nga_31 := hKq Nga_30 hb31
  have Ngp_31 := hKq Ngp_30 hb31
  have Ngb_31 := hKq Ngb_30 hb31
  have Ngq_31 := hKq Ngq_30 hb31
  have Ngr_31 := hKq Ngr_30 hb31
  have HF_31 := fTq HF_30 hb31
  clear hb31 Nga_30 Ngp_30 Ngb_30 Ngq_30 Ngr_30 HF_30
  go_wp2_with (first | ((with_reducible show wpList _ _ _ (⟨none, .store 35 (.tmp 8) (.tmp 20), _, _, _, _⟩ :: _) _ _); go_must (refine wpList_storeP rfl (.tmp 8) (.tmp 20) rfl (gr) [0, 0] 0 1 rfl rfl Ngr_31.out rfl ?_; intro y32 hr32 hg32 hz32; have Nga_32 := hGq Nga_31 hg32 HNE28_6; have Ngp_32 := hGq Ngp_31 hg32 HNE28_7; have Ngb_32 := hGq Ngb_31 hg32 HNE28_8; have Ngq_32 := hGq Ngq_31 hg32 HNE28_9; have Ngr_32 : Hid (RAt y32 gr [0, 1]) := Lib.hid hr32; have HF_32 : Hid (Below w.heap.size w y32) := Lib.hid (HF_31.out.grown hg32 HF_31.out.size (fun r hr => by injection hr with hr; have := HGE28.out; omega)); clear hr32 hg32 hz32 Nga_31 Ngp_31 Ngb_31 Ngq_31 Ngr_31 HF_31)) | fail)
  go_wp2_with fail
  obtain ⟨tr, htr⟩ := Ngr_32.out
  refine bodyPost_ret (results_cell_row rfl _ _ gr tr (bcs (encs [0, 1])).toArray _ _ rfl htr Try.underlying35 rfl (by rw [List.size_toArray, bcs_len, encs_len]; exact size35)) rfl ?_
  exact ⟨rfl, HF_32.out⟩

set_option maxHeartbeats 4000000 in
theorem PMul_core (a px py rx ry : Nat) (w : World) (CZ : Hid (∀ w, Calls Try.prog 39 #[] w (Gives (vR [0, 1]) w))) (CM : Hid (∀ w, Calls Try.prog 53 #[vN a, vR [px, py], vN 0, vR [0, 1]] w (Gives (vR [rx, ry]) w))) :
    Calls Try.prog 41 #[vN a, vR [px, py]] w (Gives (vR [rx, ry]) w) := by
  have HF_0 : Hid (Below w.heap.size w w) := Lib.hid (Below.refl _ _)
  go_enter Try.func41, Try.ntmps41
  go_wp2_with (first | ((with_reducible show wpList _ _ _ (⟨some 2, .box 23 (.tmp 0), _, _, _, _⟩ :: _) _ _); go_must (refine wpList_box_row rfl 23 (.tmp 0) rfl (bcs (enc a)).toArray rfl ?_; intro u33 ha33 hza33 hga33; have Nga_33 : Hid (RAt u33 w.heap.size [a]) := Lib.hid (NAt.row ⟨_, ha33⟩); have HF_33 : Hid (Below w.heap.size w u33) := Lib.hid (HF_0.out.grown hga33 HF_0.out.size (by simp)); have HGE33 : Hid (w.heap.size ≤ w.heap.size) := Lib.hid HF_0.out.size; clear ha33 hza33 hga33 HF_0)) | ((with_reducible show wpList _ _ _ (⟨some 3, .box 35 (.tmp 1), _, _, _, _⟩ :: _) _ _); go_must (refine wpList_box_row rfl 35 (.tmp 1) rfl (bcs (encs [px, py])).toArray rfl ?_; intro u34 ha34 hza34 hga34; have Nga_34 := Lib.hid (Nga_33.out.grown hga34 (by simp)); have Ngp_34 : Hid (RAt u34 u33.heap.size [px, py]) := Lib.hid (⟨_, ha34⟩); have HF_34 : Hid (Below w.heap.size w u34) := Lib.hid (HF_33.out.grown hga34 HF_33.out.size (by simp)); have HNE34_0 : Hid (w.heap.size ≠ u33.heap.size) := Lib.hid (by have := Nga_33.out.lt; omega); have HGE34 : Hid (w.heap.size ≤ u33.heap.size) := Lib.hid HF_33.out.size; clear ha34 hza34 hga34 Nga_33 HF_33)) | ((with_reducible show wpList _ _ _ (⟨some 4, .alloc 35, _, _, _, _⟩ :: _) _ _); go_must (refine wpList_alloc_row rfl 35 rfl (.agg (zbs 64)) zero35 ?_; intro u35 ha35 hza35 hga35; have Nga_35 := Lib.hid (Nga_34.out.grown hga35 (by simp)); have Ngp_35 := Lib.hid (Ngp_34.out.grown hga35 (by simp)); have Ngr_35 : Hid (RAt u35 u34.heap.size [0, 0]) := Lib.hid (zrow (k := 2) ha35); have HF_35 : Hid (Below w.heap.size w u35) := Lib.hid (HF_34.out.grown hga35 HF_34.out.size (by simp)); have HNE35_1 : Hid (w.heap.size ≠ u34.heap.size) := Lib.hid (by have := Nga_34.out.lt; omega); have HNE35_2 : Hid (u33.heap.size ≠ u34.heap.size) := Lib.hid (by have := Ngp_34.out.lt; omega); have HGE35 : Hid (w.heap.size ≤ u34.heap.size) := Lib.hid HF_34.out.size; clear ha35 hza35 hga35 Nga_34 Ngp_34 HF_34)) | fail)
  generalize u33.heap.size = gp at *
  generalize u34.heap.size = gr at *
  have HLT36_0 := lR Nga_35
  have HLT36_1 := lR Ngp_35
  have HLT36_2 := lR Ngr_35
  have HLO36 : Hid (w.heap.size ≤ u35.heap.size) := Lib.hid HF_35.out.size
  refine region_split (fun a' W => RAt W w.heap.size [a] ∧ RAt W gp [px, py] ∧ RAt W gr [rx, ry] ∧ Below w.heap.size w W ∧ a' = ⟨#[vN a, vR [px, py], .pointer (some ⟨w.heap.size, 0, none⟩), .pointer (some ⟨gp, 0, none⟩), .pointer (some ⟨gr, 0, none⟩), vN a, vR [px, py], vN 0, vR [0, 1], vR [rx, ry]], []⟩) ?_ ?_
  · refine startW (fun j => j == 5) (u35.heap.size) (by kernel_rfl) ?_
    obtain ⟨D36, hD36⟩ : ∃ D, D = u35.drew := ⟨_, rfl⟩
    rw [← hD36]
    have HL_36 := dLq hD36
    have Nga_36 := dRq hD36 Nga_35
    have Ngp_36 := dRq hD36 Ngp_35
    have Ngr_36 := dRq hD36 Ngr_35
    have HF_36 : Hid (Below w.heap.size w D36) := Lib.hid (by rw [hD36]; exact below_drewN' HF_35.out 1)
    clear hD36 Nga_35 Ngp_35 Ngr_35 HF_35
    refine takeT (i := 0) (oi := oET0) (vN a) rfl (by kernel_rfl) (by kernel_rfl) (by kernel_rfl) (by kernel_rfl) (by kernel_rfl) (fun _ _ _ h => nomatch h.1) (by rfl) (fun w' hk => exec_loadF (.tmp 2) rfl (w.heap.size) 0 0 rfl [a] a rfl (Nga_36.out.below hk HLT36_0.out) rfl) ?_
    simp only [oET0, Act.put, zA, zB, zC]
    refine takeT (i := 1) (oi := oET1) (vR [px, py]) rfl (by kernel_rfl) (by kernel_rfl) (by kernel_rfl) (by kernel_rfl) (by kernel_rfl) (fun _ _ _ h => nomatch h.1) (by rfl) (fun w' hk => exec_loadP (.tmp 3) rfl (gp) px py rfl (Ngp_36.out.below hk HLT36_1.out)) ?_
    simp only [oET1, Act.put, zA, zB, zC]
    refine tA (i := 2) (oi := oET2) ?_
    refine ⟨vN 0, fun w' => exec_build0 rfl, ?_⟩
    simp only [oET2, Act.put, zA, zB, zC]
    refine callW (i := 3) (oi := oET3) rfl (by kernel_rfl) (by rfl) (exec_callL 39 [] #[] rfl [] rfl (CG39 _)) ((CZ.out D36).mono ?_)
    rintro e37 W37 ⟨rfl, hb37⟩
    refine ⟨_, rfl, fun _ => hb37.mono HL_36.out, ?_⟩
    have Nga_37 := hKq Nga_36 hb37
    have Ngp_37 := hKq Ngp_36 hb37
    have Ngr_37 := hKq Ngr_36 hb37
    have HF_37 := fTq HF_36 hb37
    have HL_37 := lT HL_36 hb37
    clear hb37 HL_36 Nga_36 Ngp_36 Ngr_36 HF_36
    simp only [oET3, Act.put, zA, zB, zC]
    refine callW (i := 4) (oi := oET4) rfl (by kernel_rfl) (by rfl) (exec_callL 53 [.tmp 5, .tmp 6, .tmp 7, .tmp 8] #[23, 35, 23, 35] rfl [vN a, vR [px, py], vN 0, vR [0, 1]] rfl (CG53 _)) ((CM.out W37).mono ?_)
    rintro e38 W38 ⟨rfl, hb38⟩
    refine ⟨_, rfl, fun _ => hb38.mono HL_37.out, ?_⟩
    have Nga_38 := hKq Nga_37 hb38
    have Ngp_38 := hKq Ngp_37 hb38
    have Ngr_38 := hKq Ngr_37 hb38
    have HF_38 := fTq HF_37 hb38
    have HL_38 := lT HL_37 hb38
    clear hb38 HL_37 Nga_37 Ngp_37 Ngr_37 HF_37
    simp only [oET4, Act.put, zA, zB, zC]
    refine storeW_P (i := 5) (oi := oET5) rfl (by kernel_rfl) (by rfl) (.tmp 4) (.tmp 9) rfl (gr) [0, 0] rx ry rfl rfl Ngr_38.out rfl rfl ?_
    intro W39 hr39 hg39 hz39
    simp only [oET5, Act.put, zA, zB, zC]
    have Nga_39 := hGq Nga_38 hg39 HNE35_1
    have Ngp_39 := hGq Ngp_38 hg39 HNE35_2
    have Ngr_39 : Hid (RAt W39 gr [rx, ry]) := Lib.hid hr39
    have HF_39 : Hid (Below w.heap.size w W39) := Lib.hid (HF_38.out.grown hg39 HF_38.out.size (fun r hr => by injection hr with hr; have := HGE35.out; omega))
    have HL_39 := lG HL_38 hg39
    clear hr39 hg39 hz39 HL_38 Nga_38 Ngp_38 Ngr_38 HF_38
    refine doneW (by kernel_rfl) ⟨rfl, ?_⟩ _
    exact ⟨Nga_39.out, Ngp_39.out, Ngr_39.out, HF_39.out, rfl⟩
  rintro a' v40 ⟨h0, h1, h2, hF, rfl⟩
  have Nga_40 := Lib.hid h0
  have Ngp_40 := Lib.hid h1
  have Ngr_40 := Lib.hid h2
  have HF_40 := Lib.hid hF
  clear h0 h1 h2 hF HLT36_0 HLT36_1 HLT36_2 HLO36 Nga_35 Ngp_35 Ngr_35 HF_35
  go_wp2_with fail
  obtain ⟨tr, htr⟩ := Ngr_40.out
  refine bodyPost_ret (results_cell_row rfl _ _ gr tr (bcs (encs [rx, ry])).toArray _ _ rfl htr Try.underlying35 rfl (by rw [List.size_toArray, bcs_len, encs_len]; exact size35)) rfl ?_
  exact ⟨rfl, HF_40.out⟩

set_option maxHeartbeats 4000000 in
theorem Small_core (px py rx ry : Nat) (b : Bool) (w : World) (C1 : Hid (∀ w, Calls Try.prog 40 #[vR [px, py]] w (Gives (.int .i64 0) w))) (CM : Hid (∀ w, Calls Try.prog 41 #[vN 8, vR [px, py]] w (Gives (vR [rx, ry]) w))) (CZ : Hid (∀ w, Calls Try.prog 39 #[] w (Gives (vR [0, 1]) w)))
    (HE : Hid (∀ w, (Op.equalIn 10000 35 (vR [rx, ry]) (vR [0, 1])).run Try.prog w = .ok b w)) :
    Calls Try.prog 43 #[vR [px, py]] w (Gives (.bool b) w) := by
  have HF_0 : Hid (Below w.heap.size w w) := Lib.hid (Below.refl _ _)
  go_enter Try.func43, Try.ntmps43
  go_wp2_with (first | ((with_reducible show wpList _ _ _ (⟨some 1, .box 35 (.tmp 0), _, _, _, _⟩ :: _) _ _); go_must (refine wpList_box_row rfl 35 (.tmp 0) rfl (bcs (encs [px, py])).toArray rfl ?_; intro u41 ha41 hza41 hga41; have Ngp_41 : Hid (RAt u41 w.heap.size [px, py]) := Lib.hid (⟨_, ha41⟩); have HF_41 : Hid (Below w.heap.size w u41) := Lib.hid (HF_0.out.grown hga41 HF_0.out.size (by simp)); have HGE41 : Hid (w.heap.size ≤ w.heap.size) := Lib.hid HF_0.out.size; clear ha41 hza41 hga41 HF_0)) | ((with_reducible show wpList _ _ _ (⟨_, .load 35 (.tmp 1), _, _, _, _⟩ :: _) _ _); go_must (refine wpList_exec rfl (vR [px, py]) (exec_loadP (.tmp 1) rfl (w.heap.size) px py rfl Ngp_41.out) ?_)) | fail)
  refine (C1.out _).mono ?_
  rintro e42 x42 ⟨rfl, hb42⟩
  have Ngp_42 := hKq Ngp_41 hb42
  have HF_42 := fTq HF_41 hb42
  clear hb42 Ngp_41 HF_41
  go_wp2_with (first | ((with_reducible show wpList _ _ _ (⟨_, .build 23 _, _, _, _, _⟩ :: _) _ _); go_must (refine wpList_exec rfl (vN 8) (exec_buildc rfl (by kernel_rfl)) ?_)) | ((with_reducible show wpList _ _ _ (⟨_, .load 35 (.tmp 1), _, _, _, _⟩ :: _) _ _); go_must (refine wpList_exec rfl (vR [px, py]) (exec_loadP (.tmp 1) rfl (w.heap.size) px py rfl Ngp_42.out) ?_)) | fail)
  refine (CM.out _).mono ?_
  rintro e43 x43 ⟨rfl, hb43⟩
  have Ngp_43 := hKq Ngp_42 hb43
  have HF_43 := fTq HF_42 hb43
  clear hb43 Ngp_42 HF_42
  go_wp2_with fail
  refine (CZ.out _).mono ?_
  rintro e44 x44 ⟨rfl, hb44⟩
  have Ngp_44 := hKq Ngp_43 hb44
  have HF_44 := fTq HF_43 hb44
  clear hb44 Ngp_43 HF_43
  go_wp2_with (first | ((with_reducible show wpList _ _ _ (⟨_, .binOp .eql 35 (.tmp 9) (.tmp 10) 35, _, _, _, _⟩ :: _) _ _); go_must (refine wpList_exec rfl (.bool b) (exec_eqP (m := rx) (n := ry) (m' := 0) (n' := 1) (.tmp 9) (.tmp 10) rfl rfl rfl (HE.out _)) ?_)) | fail)
  go_ret
  exact ⟨rfl, HF_44.out⟩

set_option maxHeartbeats 4000000 in
theorem Small_bad (px py : Nat) (w : World) (C1 : Hid (∀ w, Calls Try.prog 40 #[vR [px, py]] w (Gives (.int .i64 2) w))) :
    Calls Try.prog 43 #[vR [px, py]] w (Gives (.bool false) w) := by
  have HF_0 : Hid (Below w.heap.size w w) := Lib.hid (Below.refl _ _)
  go_enter Try.func43, Try.ntmps43
  go_wp2_with (first | ((with_reducible show wpList _ _ _ (⟨some 1, .box 35 (.tmp 0), _, _, _, _⟩ :: _) _ _); go_must (refine wpList_box_row rfl 35 (.tmp 0) rfl (bcs (encs [px, py])).toArray rfl ?_; intro u45 ha45 hza45 hga45; have Ngp_45 : Hid (RAt u45 w.heap.size [px, py]) := Lib.hid (⟨_, ha45⟩); have HF_45 : Hid (Below w.heap.size w u45) := Lib.hid (HF_0.out.grown hga45 HF_0.out.size (by simp)); have HGE45 : Hid (w.heap.size ≤ w.heap.size) := Lib.hid HF_0.out.size; clear ha45 hza45 hga45 HF_0)) | ((with_reducible show wpList _ _ _ (⟨_, .load 35 (.tmp 1), _, _, _, _⟩ :: _) _ _); go_must (refine wpList_exec rfl (vR [px, py]) (exec_loadP (.tmp 1) rfl (w.heap.size) px py rfl Ngp_45.out) ?_)) | fail)
  refine (C1.out _).mono ?_
  rintro e46 x46 ⟨rfl, hb46⟩
  have Ngp_46 := hKq Ngp_45 hb46
  have HF_46 := fTq HF_45 hb46
  clear hb46 Ngp_45 HF_45
  go_wp2
  go_ret
  exact ⟨rfl, HF_46.out⟩

theorem vZ : vPt EC.zero = vR [0, 1] := by unfold vPt Ed.zero; rw [v1]; rfl
theorem pMul2 (a b : Nat) (ha : a < TT) (hb : b < TT) (P Q : EC.Pt) (w : World) : Calls Try.prog 53 #[vN a, vPt P, vN b, vPt Q] w (Gives (vPt (EC.add (EC.sm P a) (EC.sm Q b))) w) := by
  have e : EC.two P Q a b 0 = EC.add (EC.sm P a) (EC.sm Q b) := by unfold Ed.two; rw [Nat.pow_zero, Nat.div_one, Nat.div_one]
  rw [← e]
  refine Mul2_core a b _ _ _ _ (P.1.1 * P.1.2).val (Q.1.1 * Q.1.2).val _ _ (fun X Y Z T => ∃ R : X4, R.IsP (EC.two P Q a b 0) ∧ R.l = [X, Y, Z, T]) w (Lib.hid (pCheck P)) (Lib.hid (pCheck Q))
    (Lib.hid fun w g g1 h0 h1 n1 => eread_any P.1.1 P.1.2 0 0 0 0 w g g1 h0 h1 n1) (Lib.hid fun w g g1 h0 h1 n1 => eread_any Q.1.1 Q.1.2 0 0 0 0 w g g1 h0 h1 n1)
    (Lib.hid fun w g ga gp gb gq h0 h1 h2 h3 h4 n1 n2 n3 n4 => ?_) (Lib.hid fun X Y Z T hG w g hr => ?_)
  · refine (mul2_any P Q (X4.of P) (X4.of Q) ⟨0, 0, 0, 0⟩ a b w g ga gp gb gq (Lib.hid (X4.IsP.of P)) (Lib.hid (X4.IsP.of Q)) (Lib.hid ha) (Lib.hid hb) (Lib.hid h0) (Lib.hid h1) (Lib.hid (by rw [of_l]; exact h2)) (Lib.hid h3) (Lib.hid (by rw [of_l]; exact h4)) (Lib.hid n1) (Lib.hid n2) (Lib.hid n3) (Lib.hid n4)).mono ?_
    rintro e w' ⟨R, hR, hs⟩
    exact ⟨_, _, _, _, ⟨R, hR, rfl⟩, hs⟩
  · obtain ⟨R, hR, hl⟩ := hG
    rw [← hl] at hr
    exact hR.point w g hr
theorem pMul (a : Nat) (ha : a < TT) (P : EC.Pt) (w : World) : Calls Try.prog 41 #[vN a, vPt P] w (Gives (vPt (EC.sm P a)) w) := by
  have h : ∀ w, Calls Try.prog 53 #[vN a, vPt P, vN 0, vR [0, 1]] w (Gives (vPt (EC.sm P a)) w) := fun w => by
    have h := pMul2 a 0 ha (by unfold TT; omega) P EC.zero w
    rw [EC.sm_zero, EC.add_zero, vZ] at h
    exact h
  exact PMul_core a _ _ _ _ w (Lib.hid Zero_any) (Lib.hid h)
theorem pSmall (P : EC.Pt) (w : World) : Calls Try.prog 43 #[vPt P] w (Gives (.bool (decide (EC.sm P 8 = EC.zero))) w) :=
  Small_core _ _ _ _ _ w (Lib.hid (pCheck P)) (Lib.hid (pMul 8 (by unfold TT; omega) P)) (Lib.hid Zero_any) (Lib.hid fun w => by rw [← vZ]; exact pEq _ _ w)
end Go.Proofs.Ytgdimnbdnepbgaa
/- Multiples of the base point, worked out by the kernel. No statement is proved here. -/
namespace Go.Proofs.Ytgdimnbdnepbgaa
open Go.RowKit
set_option linter.unusedVariables false
set_option maxRecDepth 40000
set_option linter.unusedSimpArgs false

/-- Four numbers. -/
structure Q4 where
  x : Nat
  y : Nat
  z : Nat
  t : Nat
def dblC {α : Type} (x y z : Nat) (f : Nat → Nat → Nat → Nat → α) : α :=
  stric (x * x % PP) fun xx => stric (y * y % PP) fun yy => stric (z * z % PP) fun zz => stric (x * y % PP) fun xy => stric ((xy + xy) % PP) fun xx2 => stric ((yy + xx) % PP) fun s =>
  stric ((PP - xx + yy) % PP) fun ox => stric ((zz + zz) % PP) fun z2 => stric ((PP - ox + z2) % PP) fun oy =>
  stric (xx2 * oy % PP) fun X => stric (s * ox % PP) fun Y => stric (ox * oy % PP) fun Z => stric (xx2 * s % PP) fun T => f X Y Z T
def addC {α : Type} (x y z t : Nat) (bx by' bt : Nat) (f : Nat → Nat → Nat → Nat → α) : α :=
  stric (t * bt % PP) fun tt => stric (dN * tt % PP) fun d => stric (x * by' % PP) fun a1 => stric (y * bx % PP) fun a2 => stric ((a1 + a2) % PP) fun xx =>
  stric (y * by' % PP) fun b1 => stric (x * bx % PP) fun b2 => stric ((b1 + b2) % PP) fun yy => stric ((z + d) % PP) fun ox => stric ((PP - d + z) % PP) fun oy =>
  stric (xx * oy % PP) fun X => stric (yy * ox % PP) fun Y => stric (ox * oy % PP) fun Z => stric (xx * yy % PP) fun T => f X Y Z T
/-- Bits i - 1 .. 0 of k. -/
def go (k bx by' bt : Nat) : Nat → Nat → Nat → Nat → Nat → Q4
  | 0, x, y, z, t => ⟨x, y, z, t⟩
  | i + 1, x, y, z, t => dblC x y z fun X Y Z T => stric (k / 2 ^ i % 2) fun b => if b = 1 then addC X Y Z T bx by' bt (go k bx by' bt i) else go k bx by' bt i X Y Z T
theorem dblC_eq {α : Type} (R : X4) (f : Nat → Nat → Nat → Nat → α) : dblC R.x.val R.y.val R.z.val f = f R.dbl.x.val R.dbl.y.val R.dbl.z.val R.dbl.t.val := by
  unfold dblC
  simp only [stric_eq]
  rfl
theorem one_mulF (z : Fin PP) : z * 1 = z := by grind
theorem addC_eq {α : Type} (R : X4) (P : EC.Pt) (f : Nat → Nat → Nat → Nat → α) : addC R.x.val R.y.val R.z.val R.t.val P.1.1.val P.1.2.val (P.1.1 * P.1.2).val f = f (R.sum (X4.of P)).x.val (R.sum (X4.of P)).y.val (R.sum (X4.of P)).z.val (R.sum (X4.of P)).t.val := by
  unfold addC
  simp only [stric_eq]
  unfold X4.sum X4.of
  simp only [one_mulF]
  rfl
theorem go_is (k : Nat) (P : EC.Pt) : ∀ (i : Nat) (R : X4), R.IsP (EC.sm P (k / 2 ^ i)) → ∃ S : X4, S.IsP (EC.sm P k) ∧ go k P.1.1.val P.1.2.val (P.1.1 * P.1.2).val i R.x.val R.y.val R.z.val R.t.val = ⟨S.x.val, S.y.val, S.z.val, S.t.val⟩
  | 0, R, h => ⟨R, by rw [Nat.pow_zero, Nat.div_one] at h; exact h, rfl⟩
  | i + 1, R, h => by
    have e : k / 2 ^ i = 2 * (k / 2 ^ (i + 1)) + k / 2 ^ i % 2 := by rw [Nat.pow_succ, ← Nat.div_div_eq_div_mul]; omega
    have hd := h.dbl
    rw [← EC.sm_two] at hd
    unfold go
    rw [dblC_eq]
    simp only [stric_eq]
    by_cases hb : k / 2 ^ i % 2 = 1
    · rw [if_pos hb, addC_eq]
      refine go_is k P i _ ?_
      rw [e, hb, EC.sm_add, EC.sm_one]
      exact hd.add (X4.IsP.of P)
    · rw [if_neg hb]
      refine go_is k P i _ ?_
      rw [e, show k / 2 ^ i % 2 = 0 from by omega, Nat.add_zero]
      exact hd
theorem go_all (k : Nat) (P : EC.Pt) (i : Nat) (hk : k / 2 ^ i = 0) : ∃ S : X4, S.IsP (EC.sm P k) ∧ go k P.1.1.val P.1.2.val (P.1.1 * P.1.2).val i 0 1 1 0 = ⟨S.x.val, S.y.val, S.z.val, S.t.val⟩ := by
  have h := go_is k P i (X4.of EC.zero) (by rw [hk]; exact X4.IsP.of _)
  have e0 : (X4.of EC.zero).x.val = 0 := rfl
  have e1 : (X4.of EC.zero).y.val = 1 := v1
  have e2 : (X4.of EC.zero).z.val = 1 := v1
  have e3 : (X4.of EC.zero).t.val = 0 := by show ((0 : Fin PP) * 1).val = 0; rw [one_mulF]; rfl
  rw [e0, e1, e2, e3] at h
  exact h
theorem isP_zero {S : X4} {P : EC.Pt} (h : S.IsP P) : P = EC.zero ↔ S.x = 0 ∧ S.y = S.z := by
  obtain ⟨h0, h1, h2, _⟩ := h
  constructor
  · rintro rfl
    refine ⟨by rw [h1]; show (0 : Fin PP) * S.z = 0; grind, by rw [h2]; show (1 : Fin PP) * S.z = S.z; grind⟩
  · rintro ⟨e1, e2⟩
    refine Subtype.ext (Prod.ext ?_ ?_)
    · show P.1.1 = 0
      have : S.z * P.1.1 = S.z * 0 := by rw [h1] at e1; grind
      exact EC.cancel h0 this
    · show P.1.2 = 1
      have : S.z * P.1.2 = S.z * 1 := by rw [h2] at e2; grind
      exact EC.cancel h0 this
def lN : Nat := 7237005577332262213973186563042994240857116359379907606001950938285454250989
def btN : Nat := bxN * byN % PP
def zer (q : Q4) : Bool := q.x == 0 && q.y == q.z
theorem zer_iff {S : X4} {P : EC.Pt} (h : S.IsP P) (q : Q4) (e : q = ⟨S.x.val, S.y.val, S.z.val, S.t.val⟩) : zer q = true ↔ P = EC.zero := by
  rw [isP_zero h, e]
  unfold zer
  simp only [Bool.and_eq_true, beq_iff_eq]
  constructor
  · rintro ⟨h1, h2⟩
    exact ⟨Fin.ext h1, Fin.ext h2⟩
  · rintro ⟨h1, h2⟩
    exact ⟨by rw [h1]; rfl, by rw [h2]⟩
theorem goL : zer (go lN bxN byN btN 253 0 1 1 0) = true := by decide +kernel
theorem go8 : zer (go 8 bxN byN btN 4 0 1 1 0) = false := by decide +kernel
theorem sm_L : EC.sm bP lN = EC.zero := by
  obtain ⟨S, h, e⟩ := go_all lN bP 253 (by decide +kernel)
  exact (zer_iff h _ e).1 goL
theorem sm_8 : EC.sm bP 8 ≠ EC.zero := by
  obtain ⟨S, h, e⟩ := go_all 8 bP 4 (by decide)
  intro hz
  have := (zer_iff h _ e).2 hz
  rw [show go 8 bP.1.1.val bP.1.2.val (bP.1.1 * bP.1.2).val 4 0 1 1 0 = go 8 bxN byN btN 4 0 1 1 0 from rfl, go8] at this
  cases this
end Go.Proofs.Ytgdimnbdnepbgaa
