/- The document's own reader (the reference): what each call returns, on the same state as the program's. No statement is proved here. -/
import Derived.Test.YtbcalhhfcnbppaaH
namespace Go.Proofs.Ytbcalhhfcnbppaa
open Go.RowKit

/-- The reference's reader: what is left, and the error. -/
def RfB (w : World) (g : Nat) (A : Option Addr) (n c e : Nat) : Prop := w.heap[g]? = some (.cells #[.slice A n c, .int .i64 e] 47 (0, 0))
section
variable {w : World} {g : Nat} {A : Option Addr} {n c e : Nat}
theorem RfB.c0 (h : RfB w g A n c e) : w.cell? ⟨g, 0, none⟩ = some (.slice A n c) := by rw [cell_of_row w g 0 _ _ _ h]; rfl
theorem RfB.c1 (h : RfB w g A n c e) : w.cell? ⟨g, 1, none⟩ = some (.int .i64 e) := by rw [cell_of_row w g 1 _ _ _ h]; rfl
theorem RfB.fr (h : RfB w g A n c e) (j : Nat) : w.frozen? ⟨g, j, none⟩ = false := frozen_of_row w g j _ _ h
theorem RfB.lt (h : RfB w g A n c e) : g < w.heap.size := by
  rcases Nat.lt_or_ge g w.heap.size with hlt | hge
  · exact hlt
  · unfold RfB at h; rw [Array.getElem?_eq_none hge] at h; cases h
theorem RfB.set0 (h : RfB w g A n c e) (A' : Option Addr) (n' c' : Nat) : RfB (w.setCell ⟨g, 0, none⟩ (.slice A' n' c')) g A' n' c' e := by
  unfold RfB at h ⊢
  simp [World.setCell, Array.getElem?_modify, h]
theorem RfB.set1 (h : RfB w g A n c e) (e' : Nat) : RfB (w.setCell ⟨g, 1, none⟩ (.int .i64 e')) g A n c e' := by
  unfold RfB at h ⊢
  simp [World.setCell, Array.getElem?_modify, h]
end

/-- The reference's reader at position k of l. -/
structure Rf (w : World) (lo hi g : Nat) (l : List UInt8) (k e : Nat) : Prop where
  ex : ∃ A c, RfB w g A (l.length - k) c e ∧ Src w (fun b => lo ≤ b ∧ b < hi ∧ b ≠ g) A (l.length - k) (bcs (l.drop k)) ∧ l.length - k ≤ c ∧ c ≤ maxLen
  k_le : k ≤ l.length
  lo_le : lo ≤ g
  g_lt : g < hi
  hi_le : hi ≤ w.heap.size

theorem Rf.far {w w' : World} {lo hi g : Nat} {l : List UInt8} {k e : Nat} (h : Rf w lo hi g l k e) {row : Option Nat} (hg : w.grownBy w' row) (hr : ∀ r, row = some r → r < lo ∨ hi ≤ r) : Rf w' lo hi g l k e := by
  obtain ⟨A, c, hb, hs, h1, h2⟩ := h.ex
  have hhi := h.hi_le
  refine ⟨⟨A, c, ?_, ?_, h1, h2⟩, h.k_le, h.lo_le, h.g_lt, Nat.le_trans hhi hg.size⟩
  · unfold RfB
    rw [hg.block g hb.lt (fun e => by have := hr g e.symm; have := h.lo_le; have := h.g_lt; omega)]
    exact hb
  · exact hs.grown hg (fun b hb => ⟨by omega, fun e => by have := hr b e.symm; omega⟩) (fun _ hb => hb)
/-- After a step of the reader itself. -/
theorem Rf.step {w w' : World} {lo hi g : Nat} {l : List UInt8} {k e : Nat} (h : Rf w lo hi g l k e) {A : Option Addr} {c k' e' : Nat} (hs : Src w (fun b => lo ≤ b ∧ b < hi ∧ b ≠ g) A (l.length - k') (bcs (l.drop k'))) (hc : l.length - k' ≤ c) (hm : c ≤ maxLen)
    (hg : w.grownBy w' (some g)) (hb : RfB w' g A (l.length - k') c e') (hk : k' ≤ l.length) : Rf w' lo hi g l k' e' := by
  have hhi := h.hi_le
  exact ⟨⟨A, c, hb, hs.grown hg (fun b hb => ⟨by omega, fun e => by injection e; omega⟩) (fun _ hb => hb), hc, hm⟩, hk, h.lo_le, h.g_lt, Nat.le_trans hhi hg.size⟩

def RfGives (w : World) (lo hi g : Nat) (l : List UInt8) (v : Value) (k' e' : Nat) (e : Ending) (w' : World) : Prop := e = .returned v ∧ w.grownBy w' (some g) ∧ Rf w' lo hi g l k' e'
def RfBytes (w : World) (lo hi g : Nat) (l out : List UInt8) (k' e' : Nat) (e : Ending) (w' : World) : Prop :=
  ∃ v, e = .returned v ∧ w'.ownsRow w.heap.size 5 1 v out.length (bcs out) ∧ w.grownBy w' (some g) ∧ Rf w' lo hi g l k' e'

theorem Src.drop_b {S : Nat → Prop} {w : World} {A : Option Addr} {n c : Nat} {l : List UInt8} (h : Src w S A n (bcs l)) (k : Nat) (hk : k ≤ n) (hc : n ≤ c) : Src w S (if c = k then A else A.map (·.add k)) (n - k) (bcs (l.drop k)) := by
  have := h.drop_ k hk hc
  unfold bcs at this ⊢
  rw [List.map_drop]
  exact this
theorem Src.take_b' {S : Nat → Prop} {w : World} {A : Option Addr} {n : Nat} {l : List UInt8} (h : Src w S A n (bcs l)) (k : Nat) (hk : k ≤ n) : Src w S A k (bcs (l.take k)) := by
  have := h.take_ k hk
  unfold bcs at this ⊢
  rw [List.map_take]
  exact this

set_option maxHeartbeats 400000 in
theorem rfRead_any (w : World) (S : Nat → Prop) (A : Option Addr) (n c : Nat) (l : List UInt8) (hs : Src w S A n (bcs l)) (hS : ∀ b, S b → b < w.heap.size) (hn : n ≤ 1000000000) :
    Calls Try.prog 25 #[.slice A n c] w fun e w' => ∃ g, e = .returned (.pointer (some ⟨g, 0, none⟩)) ∧ Rf w' w.heap.size w'.heap.size g l 0 0 ∧ Below w.heap.size w w' := by
  obtain ⟨i0, hi, hz0, hz1, hz2⟩ := info_parts info5
  have ho := own_empty w 5
  have hs1 := hs.alloc hS (.cells #[] 5)
  go_enter Try.func25, Try.ntmps25
  go_wp2_with (at_builtin; refine wpList_app _ rfl _ _ 24 rfl w.heap.size 5 i0 (.int .u8 0) 1 Try.underlying24 hi hz0 hz1 hz2 rfl _ _ _ rfl ho _ _ _ _ _ rfl hs1 (bcs_one _) (by unfold maxLen; omega) (by omega) (by simp) ?_)
  intro v2 w2 ho2 hg2 _
  have hb2 : Below w.heap.size w w2 := ((Below.refl _ w).alloc (Nat.le_refl _) _).grown hg2 (by simp) (by simp [Value.ownBlock])
  have HO := own_as ho2 l (by simp)
  obtain ⟨A2, c2, rfl, hc1, hc2, hs2⟩ := own_shape HO
  have HB := Lib.hid hb2
  clear ho2 hg2 hb2 hs1 ho hs HO
  go_wp2
  go_ret
  have hb := HB.out
  exact ⟨w2.heap.size, rfl, ⟨⟨A2, c2, heap_alloc_new w2 _, ((hs2.alloc (fun b hb => hb.2) _).weak (fun b hb => ⟨hb.1, by simp; omega, by omega⟩)), hc1, hc2⟩, Nat.zero_le _, hb.size, by simp, Nat.le_refl _⟩, hb.alloc hb.size _⟩

theorem grown_mix {a b c : World} {row : Option Nat} (h : a.grownBy b row) (hb : Below a.heap.size b c) : a.grownBy c row :=
  ⟨hb.os.trans h.os, hb.tape.trans h.tape, hb.output.trans h.output, Nat.le_trans h.size hb.size, fun i hi hne => (hb.block i hi).trans (h.block i hi hne)⟩
theorem rfb_below {w w' : World} {g : Nat} {A : Option Addr} {n c e B : Nat} (h : RfB w g A n c e) (hb : Below B w w') (hg : g < B) : RfB w' g A n c e := by
  unfold RfB at h ⊢
  rw [hb.block g hg]
  exact h
theorem own_empty' (w : World) (N : Nat) (h : w.heap.size = N) : (w.alloc (.cells #[] 5)).ownsRow N 5 1 (.slice (some ⟨N, 0, none⟩) 0 0) 0 [] := by
  subst h
  exact own_empty w 5

set_option maxHeartbeats 1000000 in
theorem Rf.takeN {w : World} {lo hi g : Nat} {l : List UInt8} {k e : Nat} (h : Rf w lo hi g l k e) (hl : l.length ≤ 1000000000) (m : Int) (hm : m < 9223372036854775808) :
    Calls Try.prog 31 #[.pointer (some ⟨g, 0, none⟩), .int .i64 m] w (RfBytes w lo hi g l (takeS l k e m.toNat).1 (takeS l k e m.toNat).2.1 (takeS l k e m.toNat).2.2) := by
  obtain ⟨i0, hi', hz0, hz1, hz2⟩ := info_parts info5
  obtain ⟨A, c, hb, hs, h1, h2⟩ := h.ex
  have hk := h.k_le
  have hhi := h.hi_le
  have c0 := hb.c0
  have c1 := hb.c1
  have f0 := hb.fr 0
  have f1 := hb.fr 1
  have HB := Lib.hid hb
  have HH := Lib.hid h
  have hx : max m 0 = ((m.toNat : Nat) : Int) := by omega
  clear h hb
  by_cases he : e = 0
  · subst he
    by_cases hlt : l.length - k < m.toNat
    · have ht : takeS l k 0 m.toNat = ([], k, 5) := by unfold takeS; rw [if_neg (by omega), if_pos hlt]
      rw [ht]
      clear ht
      generalize m.toNat = x at *
      have hlt' : ((l.length - k : Nat) : Int) < (x : Int) := by omega
      go_enter Try.func31, Try.ntmps31
      go_wp2
      go_ret
      have hg := grownBy_setCell (World.grownBy.refl w (some g)) 1 (.int .i64 5)
      exact ⟨_, rfl, World.ownsRow_nil _ _ _ _, hg, HH.out.step hs h1 h2 hg (HB.out.set1 5) hk⟩
    · have ht : takeS l k 0 m.toNat = ((l.drop k).take m.toNat, k + m.toNat, 0) := by unfold takeS; rw [if_neg (by omega), if_neg hlt]
      rw [ht]
      clear ht
      generalize m.toNat = x at *
      have hlt' : ¬ (((l.length - k : Nat) : Int) < (x : Int)) := by omega
      have hxc : (x : Int) ≤ (c : Int) := by omega
      have hsT := hs.take_b' x (by omega)
      have hsD := hs.drop_b (c := c) x (by omega) h1
      rw [List.drop_drop] at hsD
      have HSD := Lib.hid hsD
      have hlen : ((l.drop k).take x).length = x := by rw [List.length_take, List.length_drop]; omega
      clear hsD
      have HG := Lib.hid (fun u => grownBy_setCell (World.grownBy.refl w (some g)) 0 u)
      have HZ : Hid (∀ u, (w.setCell ⟨g, 0, none⟩ u).heap.size = w.heap.size) := fun u => by simp [World.setCell]
      have HT : Hid (∀ u, Src ((w.setCell ⟨g, 0, none⟩ u).alloc (.cells #[] 5)) (fun b => lo ≤ b ∧ b < hi ∧ b ≠ g) A x (bcs ((l.drop k).take x))) := fun u =>
        (hsT.grown (HG.out u) (fun b hb => ⟨by omega, fun e => by injection e; omega⟩) (fun _ h => h)).alloc (fun b hb => by rw [HZ.out u]; omega) _
      have HO : Hid (∀ u, ((w.setCell ⟨g, 0, none⟩ u).alloc (.cells #[] 5)).ownsRow w.heap.size 5 1 (.slice (some ⟨w.heap.size, 0, none⟩) 0 0) 0 []) := fun u => own_empty' _ _ (HZ.out u)
      have HL := Lib.hid hlen
      clear hsT hlen
      by_cases hcx : c = x
      all_goals
        go_enter Try.func31, Try.ntmps31
        go_wp2_with (at_builtin; refine wpList_app _ rfl _ _ 24 rfl w.heap.size 5 i0 (.int .u8 0) 1 Try.underlying24 hi' hz0 hz1 hz2 rfl _ _ _ rfl (HO.out _) _ _ _ _ _ rfl (HT.out _) (bcs_one _) (by unfold maxLen; omega) (by omega) (by simp) ?_)
        intro v2 w2 ho2 hg2 _
        go_wp2
        go_ret
        have hsd := HSD.out
        simp only [hcx, if_true, if_false] at hsd
        have hsub : l.length - k - x = l.length - (k + x) := by omega
        rw [hsub] at hsd hg2
        have hbw := ((Below.refl w.heap.size _).alloc (by rw [HZ.out]; exact Nat.le_refl _) _).grown hg2 (by simp [HZ.out]) (by simp [Value.ownBlock])
        have hgg := grown_mix (HG.out _) hbw
        have hrb2 := rfb_below (HB.out.set0 _ _ _) hbw HB.out.lt
        exact ⟨v2, rfl, own_as ho2 _ rfl, hgg, HH.out.step hsd (by omega) (by omega) hgg hrb2 (by omega)⟩
  · have ht : takeS l k e m.toNat = ([], k, e) := by unfold takeS; rw [if_pos he]
    rw [ht]
    clear ht
    have hne : (((e : Nat) : Int) != 0) = true := by simp; omega
    have hne' : (((e : Nat) : Int) == 0) = false := by simp; omega
    generalize m.toNat = x at *
    go_enter Try.func31, Try.ntmps31
    go_wp2
    go_ret
    exact ⟨_, rfl, World.ownsRow_nil _ _ _ _, World.grownBy.refl w _, HH.out⟩

theorem lead_bit' : ∀ y : Fin 256, ∀ j : Fin 10, 1 ≤ j.val → (j.val < 9 - Lib.bitLen (255 - y.val) → y.val / 2 ^ (8 - j.val) % 2 = 1) ∧ (j.val = 9 - Lib.bitLen (255 - y.val) → j.val < 9 → y.val / 2 ^ (8 - j.val) % 2 = 0) := by decide +kernel
theorem lead_bit (y : UInt8) (j : Nat) (h1 : 1 ≤ j) (h9 : j ≤ 9) : (j < lead y → y.toNat / 2 ^ (8 - j) % 2 = 1) ∧ (j = lead y → j < 9 → y.toNat / 2 ^ (8 - j) % 2 = 0) :=
  lead_bit' ⟨y.toNat, y.toNat_lt⟩ ⟨j, by omega⟩ h1

theorem bit_form (y : UInt8) (j : Nat) : (y.toNat : Int) / 2 ^ (8 - j) = ((y.toNat / 2 ^ (8 - j) : Nat) : Int) := by simp
theorem bit_yes (y : UInt8) (j : Nat) (h : y.toNat / 2 ^ (8 - j) % 2 = 1) : (((y.toNat : Int) / 2 ^ (8 - j)).tmod 2 == 1) = true := by
  rw [bit_form, Int.tmod_eq_emod_of_nonneg (Int.natCast_nonneg _)]
  generalize y.toNat / 2 ^ (8 - j) = q at *
  have : (q : Int) % 2 = 1 := by omega
  rw [this]
  rfl
theorem bit_no (y : UInt8) (j : Nat) (h : y.toNat / 2 ^ (8 - j) % 2 = 0) : (((y.toNat : Int) / 2 ^ (8 - j)).tmod 2 == 1) = false := by
  rw [bit_form, Int.tmod_eq_emod_of_nonneg (Int.natCast_nonneg _)]
  generalize y.toNat / 2 ^ (8 - j) = q at *
  have : (q : Int) % 2 = 0 := by omega
  rw [this]
  rfl
theorem pow_wrap (j : Nat) : IntKind.u64.wrap (2 ^ (8 - j)) = ((2 ^ (8 - j) : Nat) : Int) := by
  have h : (2 : Nat) ^ (8 - j) ≤ 2 ^ 8 := Nat.pow_le_pow_right (by omega) (by omega)
  have e : (2 : Int) ^ (8 - j) = ((2 ^ (8 - j) : Nat) : Int) := by simp
  rw [e, IntKind.wrap_u64]
  generalize 2 ^ (8 - j) = q at *
  rw [Int.emod_eq_of_lt (by omega) (by omega)]
theorem low_form (y : UInt8) (j : Nat) : ((y.toNat : Int)).tmod (IntKind.u64.wrap (2 ^ (8 - j))) = ((y.toNat % 2 ^ (8 - j) : Nat) : Int) := by
  rw [pow_wrap, Int.tmod_eq_emod_of_nonneg (Int.natCast_nonneg _), Int.natCast_emod]
theorem pow_ne (j : Nat) : ¬ IntKind.u64.wrap (2 ^ (8 - j)) = 0 := by
  rw [pow_wrap]
  have := Nat.two_pow_pos (8 - j)
  intro h
  have h2 : 2 ^ (8 - j) = 0 := by exact_mod_cast h
  omega
theorem cat_val (y : UInt8) (t : List UInt8) (hle : lead y ≤ t.length + 1) : cat (y.toNat % 2 ^ (8 - lead y)) (t.take (lead y - 1)) < 2 ^ (8 - lead y) * 256 ^ (lead y - 1) := by
  have h1 := cat_split (y.toNat % 2 ^ (8 - lead y)) (t.take (lead y - 1))
  have h2 := cat_lt (t.take (lead y - 1))
  have p1 := lead_pos y
  have h3 : (t.take (lead y - 1)).length = lead y - 1 := by rw [List.length_take]; omega
  rw [h3] at h1 h2
  have h4 : y.toNat % 2 ^ (8 - lead y) < 2 ^ (8 - lead y) := Nat.mod_lt _ (Nat.two_pow_pos _)
  have h5 : (y.toNat % 2 ^ (8 - lead y) + 1) * 256 ^ (lead y - 1) ≤ 2 ^ (8 - lead y) * 256 ^ (lead y - 1) := Nat.mul_le_mul_right _ (by omega)
  rw [Nat.add_mul] at h5
  omega
theorem cat_sz (y : UInt8) (t : List UInt8) (hle : lead y ≤ t.length + 1) : sz (cat (y.toNat % 2 ^ (8 - lead y)) (t.take (lead y - 1))) ≤ lead y ∧ cat (y.toNat % 2 ^ (8 - lead y)) (t.take (lead y - 1)) < 18446744073709551616 := by
  have hv := cat_val y t hle
  have p1 := lead_pos y
  have p9 := lead_le y
  have hb : 2 ^ (8 - lead y) * 256 ^ (lead y - 1) ≤ 2 ^ 64 := by
    rw [show (256 : Nat) = 2 ^ 8 from rfl, ← Nat.pow_mul, ← Nat.pow_add]
    exact Nat.pow_le_pow_right (by omega) (by omega)
  refine ⟨?_, by omega⟩
  by_cases h8 : lead y ≤ 8
  · have e : 2 ^ (8 - lead y) * 256 ^ (lead y - 1) = 128 ^ lead y := by
      rw [show (256 : Nat) = 2 ^ 8 from rfl, show (128 : Nat) = 2 ^ 7 from rfl, ← Nat.pow_mul, ← Nat.pow_mul, ← Nat.pow_add]
      congr 1
      omega
    exact sz_of_lt _ _ p1 h8 (by omega)
  · have := sz_le (cat (y.toNat % 2 ^ (8 - lead y)) (t.take (lead y - 1)))
    omega

set_option maxHeartbeats 2000000 in
theorem Rf.num {w : World} {lo hi g : Nat} {l : List UInt8} {k e : Nat} (h : Rf w lo hi g l k e) (hl : l.length ≤ 1000000000) :
    Calls Try.prog 27 #[.pointer (some ⟨g, 0, none⟩)] w (RfGives w lo hi g l (.int .u64 ((numS l k e).1 : Int)) (numS l k e).2.1 (numS l k e).2.2) := by
  obtain ⟨A, c, hb, hs, h1, h2⟩ := h.ex
  have hk := h.k_le
  have hhi := h.hi_le
  have c0 := hb.c0
  have c1 := hb.c1
  have f0 := hb.fr 0
  have f1 := hb.fr 1
  have HB := Lib.hid hb
  have HH := Lib.hid h
  clear h hb
  by_cases he : e = 0
  · subst he
    have hlk : l.length - k = (l.drop k).length := by rw [List.length_drop]
    cases hd : l.drop k with
    | nil =>
      have ht : numS l k 0 = (0, k, 5) := by unfold numS; rw [if_pos rfl, hd]; rfl
      rw [ht]
      rw [hd] at hlk
      have hz : ((((l.length - k : Nat) : Int)) == 0) = true := by simp at hlk; simp; omega
      clear ht hd hlk
      go_enter Try.func27, Try.ntmps27
      go_wp2
      go_ret
      have hg := grownBy_setCell (World.grownBy.refl w (some g)) 1 (.int .i64 5)
      exact ⟨rfl, hg, HH.out.step hs h1 h2 hg (HB.out.set1 5) hk⟩
    | cons y t =>
      have hlt : l.length - k = t.length + 1 := by rw [hlk, hd]; rfl
      obtain ⟨b, o, rfl, _, hcell⟩ := hs.lies (by omega)
      have hy := hcell 0 (by omega)
      rw [hd] at hy
      have hcy : w.cell? ⟨b, o, none⟩ = some (.int .u8 (y.toNat : Int)) := hy
      have hyb : y.toNat < 256 := y.toNat_lt
      have y1 := lead_pos y
      have y9 := lead_le y
      have LB := Lib.hid (lead_bit y)
      have hz : (((l.length - k : Nat) : Int) == 0) = false := by simp; omega
      have hz' : (0 : Int) < ((l.length - k : Nat) : Int) := by omega
      have HD := Lib.hid hd
      have HLT := Lib.hid hlt
      have HN := Lib.hid (fun hle => numS_cons hd hle)
      have HM : Hid (t.length + 1 < lead y → numS l k 0 = (0, k, 5)) := by
        intro h
        unfold numS
        rw [if_pos rfl, hd, decN_cons, if_pos h]
        exact rfl
      have hcb := Lib.hid (fun j (hj : j + 1 < lead y) (hle : lead y ≤ t.length + 1) => cat_bound y (t.take j) j hj (by rw [List.length_take]; omega))
      have HSZ := Lib.hid (cat_sz y t)
      have HC : Hid (∀ j (hj : j < t.length), w.cell? ⟨b, o + (j + 1), none⟩ = some (bc t[j])) := by
        intro j hj
        rw [hcell (j + 1) (by omega), hd, bcs_get]
        simp only [List.getElem?_cons_succ]
        rw [List.getElem?_eq_getElem hj]
        rfl
      generalize ha : y.toNat % 2 ^ (8 - lead y) = a at *
      have HA := Lib.hid ha
      have ha2 : a < 256 := by have := Nat.mod_le y.toNat (2 ^ (8 - lead y)); omega
      generalize lead y = s at *
      clear hd hlk hy hcell ha hlt
      go_enter Try.func27, Try.ntmps27
      go_wp2
      go_loop [3] (fun v => ∃ j : Nat, 1 ≤ j ∧ j ≤ s ∧ v = .int .i64 j) (fun v => s - (intOf v).toNat)
      case atStart => exact ⟨1, by omega, by omega, rfl⟩
      case round =>
        obtain ⟨j, hj1, hj, rfl⟩ := hrel
        by_cases hlt' : j < s
        · have hj9 : (j : Int) < 9 := by omega
          have hbit := bit_yes y j ((LB.out j hj1 (by omega)).1 hlt')
          go_wp2
          go_round
          case rel => exact ⟨j + 1, by omega, by omega, by go_num⟩
          case measure => simp [intOf]; omega
        · obtain rfl : j = s := by omega
          by_cases hshort : t.length + 1 < j
          · have hsh : ((l.length - k : Nat) : Int) < (j : Int) := by have := HLT.out; omega
            by_cases h9 : j < 9
            all_goals
              first | (have h9' : (j : Int) < 9 := by omega) | (have h9' : ¬ ((j : Int) < 9) := by omega)
              first | (have hbit := bit_no y j ((LB.out j hj1 (by omega)).2 rfl h9)) | skip
              go_wp2
              go_ret
              rw [HM.out hshort]
              have hg := grownBy_setCell (World.grownBy.refl w (some g)) 1 (.int .i64 5)
              exact ⟨rfl, hg, HH.out.step hs h1 h2 hg (HB.out.set1 5) hk⟩
          · have hsh : ¬ (((l.length - k : Nat) : Int) < (j : Int)) := by have := HLT.out; omega
            have hlow := low_form y j
            rw [HA.out] at hlow
            have hpn := pow_ne j
            have hle : j ≤ t.length + 1 := by omega
            obtain ⟨hsz1, hsz2⟩ := HSZ.out hle
            have HZ1 := Lib.hid hsz1
            have CR := Lib.hid (fun w => room_any _ w hsz2)
            have HN' := Lib.hid (HN.out hle)
            have HX : Hid (9 ≤ j → a = 0) := by
              intro h
              have e := HA.out
              rw [show 8 - j = 0 from by omega] at e
              simp at e
              omega
            clear hsz1 hsz2
            by_cases h9 : j < 9
            all_goals
              first | (have h9' : (j : Int) < 9 := by omega) | (have h9' : ¬ ((j : Int) < 9) := by omega)
              first | (have hbit := bit_no y j ((LB.out j hj1 (by omega)).2 rfl h9)) | skip
              go_wp2
              go_loop [4, 5] (fun v i => ∃ q : Nat, 1 ≤ q ∧ q ≤ j ∧ i = .int .i64 q ∧ v = .int .u64 (cat a (t.take (q - 1)))) (fun _ i => j - (intOf i).toNat)
              case atStart =>
                refine ⟨1, by omega, hj1, rfl, ?_⟩
                first | (have e0 := HX.out (by omega); subst e0; rfl) | rfl
              case round =>
                obtain ⟨q, hq1, hqj, rfl, rfl⟩ := hrel
                by_cases hqlt : q < j
                · have hqt : q - 1 < t.length := by omega
                  have hcq := HC.out (q - 1) hqt
                  rw [show o + (q - 1 + 1) = o + q from by omega] at hcq
                  have hcq' : w.cell? ⟨b, o + q, none⟩ = some (.int .u8 (t[q - 1].toNat : Int)) := hcq
                  have hbq := hcb.out (q - 1) (by omega) hle
                  have hql : (q : Int) < ((l.length - k : Nat) : Int) := by have := HLT.out; omega
                  have HS : Hid (cat a (t.take (q + 1 - 1)) = cat a (t.take (q - 1)) * 256 + t[q - 1].toNat) := by
                    rw [show q + 1 - 1 = (q - 1) + 1 from by omega, List.take_succ_eq_append_getElem hqt, cat_append]
                    exact rfl
                  clear hcq
                  generalize cat a (t.take (q - 1)) = X at *
                  generalize t[q - 1] = z at *
                  have hzb : z.toNat < 256 := z.toNat_lt
                  go_wp2
                  go_round
                  case rel => exact ⟨q + 1, by omega, by omega, by go_num, by rw [HS.out]; go_num⟩
                  case measure => simp [intOf]; omega
                · obtain rfl : q = j := by omega
                  generalize cat a (t.take (q - 1)) = X at *
                  by_cases hsz : sz X < q
                  · have hb1 : (((sz X : Nat) : Int) != (q : Int)) = true := by simp; omega
                    go_wp2_with (go_at_call 42; refine (CR.out _).mono ?_; rintro e w' ⟨rfl, rfl⟩)
                    go_ret
                    rw [HN'.out, if_pos hsz]
                    have hg := grownBy_setCell (World.grownBy.refl w (some g)) 1 (.int .i64 4)
                    exact ⟨rfl, hg, HH.out.step hs h1 h2 hg (HB.out.set1 4) hk⟩
                  · have hb1 : (((sz X : Nat) : Int) != (q : Int)) = false := by have := HZ1.out; simp; omega
                    have hsd := Lib.hid (hs.drop_b (c := c) q (by have := HLT.out; omega) h1)
                    by_cases hcx : c = q
                    all_goals
                      go_wp2_with (go_at_call 42; refine (CR.out _).mono ?_; rintro e w' ⟨rfl, rfl⟩)
                      go_ret
                      have hll := HLT.out
                      rw [HN'.out, if_neg hsz]
                      have hsd' := hsd.out
                      have hq0 : ¬ q = 0 := by omega
                      simp only [hcx, if_true, if_false, List.drop_drop, Option.map_some, Addr.add, if_neg hq0] at hsd'
                      rw [show l.length - k - q = l.length - (k + q) from by omega] at hsd' ⊢
                      have HG := (fun u => grownBy_setCell (World.grownBy.refl w (some g)) 0 u)
                      have hkq : k + q ≤ l.length := by omega
                      have hcq2 : l.length - (k + q) ≤ c - q := by omega
                      have hcm : c - q ≤ maxLen := by omega
                      try (rw [hcx, Nat.sub_self] at hcq2 hcm)
                      have hend : Rf _ lo hi g l (k + q) 0 := HH.out.step hsd' hcq2 hcm (HG _) (HB.out.set0 _ _ _) hkq
                      exact ⟨rfl, HG _, hend⟩
  · have ht : numS l k e = (0, k, e) := by unfold numS; rw [if_neg he]
    rw [ht]
    clear ht
    have hne : (((e : Nat) : Int) != 0) = true := by simp; omega
    go_enter Try.func27, Try.ntmps27
    go_wp2
    go_ret
    exact ⟨rfl, World.grownBy.refl w _, HH.out⟩
end Go.Proofs.Ytbcalhhfcnbppaa
