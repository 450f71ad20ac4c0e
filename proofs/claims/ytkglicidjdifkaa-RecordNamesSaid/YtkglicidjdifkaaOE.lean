/- Copies; making a reader; what a reader's calls return, on its state. No statement is proved here. -/
import Derived.Test.YtkglicidjdifkaaOD

namespace Go.Proofs.Ytkglicidjdifkaa
open Go.RowKit

theorem own_base {w : World} {B B' : Nat} {e : TypeId} {v : Value} {n : Nat} {xs : List Value} (h : w.ownsRow B e 1 v n xs) (hB : B' ≤ B) : w.ownsRow B' e 1 v n xs := by
  refine ⟨h.1, ?_⟩
  rcases h.2 with h0 | ⟨g, cap, cur, a, b, c⟩
  · exact .inl h0
  · exact .inr ⟨g, cap, cur, a, by omega, c⟩

/-- An empty literal. -/
theorem own_empty (w : World) (e : TypeId) : (w.alloc (.cells #[] e)).ownsRow w.heap.size e 1 (.slice (some ⟨w.heap.size, 0, none⟩) 0 0) 0 [] :=
  ⟨by simp, .inr ⟨w.heap.size, 0, #[], rfl, Nat.le_refl _, heap_alloc_new w _, Nat.le_refl _, by simp [maxLen], by simp, by simp⟩⟩

set_option maxHeartbeats 400000 in
theorem own_any (w : World) (S : Nat → Prop) (A : Option Addr) (n c : Nat) (l : List UInt8) (hs : Src w S A n (bcs l)) (hS : ∀ b, S b → b < w.heap.size) (hn : n ≤ 1000000000) :
    Calls Try.prog 10 #[.slice A n c] w (GivesFresh w l) := by
  obtain ⟨i0, hi, hz0, hz1, hz2⟩ := info_parts info5
  have ho := own_empty w 5
  have hs1 := hs.alloc hS (.cells #[] 5)
  go_enter Try.func10, Try.ntmps10
  go_wp2_with (at_builtin; refine wpList_app _ rfl _ _ 26 rfl w.heap.size 5 i0 (.int .u8 0) 1 Try.underlying26 hi hz0 hz1 hz2 rfl _ _ _ rfl ho _ _ _ _ _ rfl hs1 (bcs_one _) (by unfold maxLen; omega) (by omega) (by simp) ?_)
  intro v2 w2 ho2 hg2 _
  go_wp2
  go_ret
  exact ⟨v2, rfl, own_as ho2 l (by simp), ((Below.refl _ w).alloc (Nat.le_refl _) _).grown hg2 (by simp) (by simp [Value.ownBlock])⟩

set_option maxHeartbeats 400000 in
theorem clone_any (w : World) (S : Nat → Prop) (A : Option Addr) (n c : Nat) (l : List UInt8) (hs : Src w S A n (bcs l)) (hS : ∀ b, S b → b < w.heap.size) (hn : n ≤ 1000000000) :
    Calls Try.prog 51 #[.slice A n c] w (GivesFresh w l) := by
  obtain ⟨i0, hi, hz0, hz1, hz2⟩ := info_parts info5
  rcases A with _ | ad
  · have h0 : n = 0 := by
      rcases Nat.eq_zero_or_pos n with h | h
      · exact h
      · obtain ⟨b, o, e, _⟩ := hs.lies h
        cases e
    subst h0
    have hl := src_len hs
    have hl0 : l = [] := List.eq_nil_of_length_eq_zero hl
    subst hl0
    clear hs hl
    have hq := fun w => Lib.run_eql_slice_nil (P := Try.prog) w 26 5 none 0 c 0 0 Try.underlying26
    go_enter Try.func51, Try.ntmps51
    go_wp2
    go_ret
    exact ⟨_, rfl, World.ownsRow_nil w _ _ _, Below.refl _ _⟩
  · have ho := own_empty w 5
    have hs1 := hs.alloc hS (.cells #[] 5)
    have hq := fun w => Lib.run_eql_slice_nil (P := Try.prog) w 26 5 (some ad) n c 0 0 Try.underlying26
    go_enter Try.func51, Try.ntmps51
    go_wp2_with (at_builtin; refine wpList_app _ rfl _ _ 26 rfl w.heap.size 5 i0 (.int .u8 0) 1 Try.underlying26 hi hz0 hz1 hz2 rfl _ _ _ rfl ho _ _ _ _ _ rfl hs1 (bcs_one _) (by unfold maxLen; omega) (by omega) (by simp) ?_)
    intro v2 w2 ho2 hg2 _
    go_wp2
    go_ret
    exact ⟨v2, rfl, own_as ho2 l (by simp), ((Below.refl _ w).alloc (Nat.le_refl _) _).grown hg2 (by simp) (by simp [Value.ownBlock])⟩

/-- A reader of l at position k with error e: its block is g, its bytes lie in other blocks from lo to below hi. -/
structure Rdr (w : World) (lo hi g : Nat) (l : List UInt8) (k e : Nat) : Prop where
  ex : ∃ A c, RdB w g A l.length c k e ∧ Src w (fun b => lo ≤ b ∧ b < hi ∧ b ≠ g) A l.length (bcs l) ∧ l.length ≤ c ∧ c ≤ maxLen
  k_le : k ≤ l.length
  lo_le : lo ≤ g
  g_lt : g < hi
  hi_le : hi ≤ w.heap.size

theorem Rdr.far {w w' : World} {lo hi g : Nat} {l : List UInt8} {k e : Nat} (h : Rdr w lo hi g l k e) {row : Option Nat} (hg : w.grownBy w' row) (hr : ∀ r, row = some r → r < lo ∨ hi ≤ r) : Rdr w' lo hi g l k e := by
  obtain ⟨A, c, hb, hs, h1, h2⟩ := h.ex
  have hhi := h.hi_le
  refine ⟨⟨A, c, ?_, ?_, h1, h2⟩, h.k_le, h.lo_le, h.g_lt, Nat.le_trans hhi hg.size⟩
  · unfold RdB
    rw [hg.block g hb.lt (fun e => by have := hr g e.symm; have := h.lo_le; have := h.g_lt; omega)]
    exact hb
  · exact hs.grown hg (fun b hb => ⟨by omega, fun e => by have := hr b e.symm; omega⟩) (fun _ hb => hb)
theorem Rdr.below {w w' : World} {lo hi g : Nat} {l : List UInt8} {k e B : Nat} (h : Rdr w lo hi g l k e) (hb : Below B w w') (hB : hi ≤ B) : Rdr w' lo hi g l k e := by
  obtain ⟨A, c, hr, hs, h1, h2⟩ := h.ex
  have := h.g_lt
  refine ⟨⟨A, c, ?_, ?_, h1, h2⟩, h.k_le, h.lo_le, h.g_lt, Nat.le_trans h.hi_le hb.size⟩
  · unfold RdB
    rw [hb.block g (by omega)]
    exact hr
  · exact (hs.weak (S' := (· < B)) (fun b hb => by omega)).below hb (S' := fun b => True) (fun _ _ => trivial) |>.lies |> fun h3 => ⟨hs.len, fun hn => by
      obtain ⟨b, o, e1, hS, _⟩ := hs.lies hn
      obtain ⟨b', o', e2, _, hc⟩ := h3 hn
      rw [e1] at e2
      injection e2 with e2
      injection e2 with e3 e4
      subst e3; subst e4
      exact ⟨b, o, e1, hS, hc⟩⟩
/-- After a step of the reader itself. -/
theorem Rdr.step {w w' : World} {lo hi g : Nat} {l : List UInt8} {k e : Nat} (h : Rdr w lo hi g l k e) {A : Option Addr} {c k' e' : Nat} (hs : Src w (fun b => lo ≤ b ∧ b < hi ∧ b ≠ g) A l.length (bcs l)) (hc : l.length ≤ c) (hm : c ≤ maxLen)
    (hg : w.grownBy w' (some g)) (hb : RdB w' g A l.length c k' e') (hk : k' ≤ l.length) : Rdr w' lo hi g l k' e' := by
  have hhi := h.hi_le
  exact ⟨⟨A, c, hb, hs.grown hg (fun b hb => ⟨by omega, fun e => by injection e; omega⟩) (fun _ hb => hb), hc, hm⟩, hk, h.lo_le, h.g_lt, Nat.le_trans hhi hg.size⟩

/-- What a call on a reader leaves: the value, the reader at its new state, nothing else old has changed. -/
def RdGives (w : World) (lo hi g : Nat) (l : List UInt8) (v : Value) (k' e' : Nat) (e : Ending) (w' : World) : Prop := e = .returned v ∧ w.grownBy w' (some g) ∧ Rdr w' lo hi g l k' e'
/-- The same, where bytes come out. -/
def RdBytes (w : World) (lo hi g : Nat) (l out : List UInt8) (k' e' : Nat) (e : Ending) (w' : World) : Prop :=
  ∃ v, e = .returned v ∧ w'.ownsRow w.heap.size 5 1 v out.length (bcs out) ∧ w.grownBy w' (some g) ∧ Rdr w' lo hi g l k' e'

theorem numS_le (l : List UInt8) (k e : Nat) (hk : k ≤ l.length) : (numS l k e).2.1 ≤ l.length := by
  unfold numS
  split
  · cases hd : l.drop k with
    | nil => simpa [decN] using hk
    | cons y t =>
      have hl : l.length - k = t.length + 1 := by rw [← List.length_drop, hd]; rfl
      rw [decN_cons]
      split
      · simpa using hk
      · split <;> simp <;> omega
  · exact hk

theorem Rdr.num {w : World} {lo hi g : Nat} {l : List UInt8} {k e : Nat} (h : Rdr w lo hi g l k e) (hl : l.length ≤ 1000000000) :
    Calls Try.prog 45 #[.pointer (some ⟨g, 0, none⟩)] w (RdGives w lo hi g l (.int .u64 ((numS l k e).1 : Int)) (numS l k e).2.1 (numS l k e).2.2) := by
  obtain ⟨A, c, hb, hs, h1, h2⟩ := h.ex
  have hhi := h.hi_le
  exact (num_any hb hs (fun b hb => ⟨by omega, by omega⟩) h.k_le hl h1 h2).mono fun e' w' ⟨a, b, d⟩ => ⟨b, a, h.step hs h1 h2 a d (numS_le l k e h.k_le)⟩
theorem Rdr.err {w : World} {lo hi g : Nat} {l : List UInt8} {k e : Nat} (h : Rdr w lo hi g l k e) :
    Calls Try.prog 44 #[.pointer (some ⟨g, 0, none⟩)] w fun e' w' => e' = .returned (.int .i64 e) ∧ w = w' := by
  obtain ⟨A, c, hb, _⟩ := h.ex
  exact err_any hb
theorem Rdr.left {w : World} {lo hi g : Nat} {l : List UInt8} {k e : Nat} (h : Rdr w lo hi g l k e) (hl : l.length ≤ 1000000000) :
    Calls Try.prog 46 #[.pointer (some ⟨g, 0, none⟩)] w fun e' w' => e' = .returned (.int .i64 ((l.length - k : Nat) : Int)) ∧ ∃ q, w' = w.drewN q := by
  obtain ⟨A, c, hb, _⟩ := h.ex
  exact left_any hb h.k_le hl

set_option maxHeartbeats 400000 in
theorem read_any (w : World) (S : Nat → Prop) (A : Option Addr) (n c : Nat) (l : List UInt8) (hs : Src w S A n (bcs l)) (hS : ∀ b, S b → b < w.heap.size) (hn : n ≤ 1000000000) :
    Calls Try.prog 42 #[.slice A n c] w fun e w' => ∃ g, e = .returned (.pointer (some ⟨g, 0, none⟩)) ∧ Rdr w' w.heap.size w'.heap.size g l 0 0 ∧ Below w.heap.size w w' := by
  go_enter Try.func42, Try.ntmps42
  go_wp2_with (go_at_call 51; refine (clone_any w S A n c l hs hS hn).mono ?_)
  rintro e w1 ⟨v, rfl, hf⟩
  obtain ⟨A1, c1, rfl, hc1, hm1, hs1⟩ := hf.shape
  have hF := Lib.hid hf
  clear hf
  go_wp2
  go_ret
  have hF' := hF.out
  refine ⟨w1.heap.size, rfl, ⟨⟨A1, c1, heap_alloc_new w1 _, ((hs1.alloc (fun b hb => hb.2) _).weak (fun b hb => ⟨hb.1, by simp; omega, by omega⟩)), hc1, hm1⟩, Nat.zero_le _, hF'.2.size, by simp, Nat.le_refl _⟩, hF'.2.alloc hF'.2.size _⟩

/-- Taking m bytes, on a reader's state. -/
def takeS (l : List UInt8) (k e m : Nat) : List UInt8 × Nat × Nat := if e ≠ 0 then ([], k, e) else if l.length - k < m then ([], k, 5) else ((l.drop k).take m, k + m, 0)

/-- The inner taking, on a reader's state: the piece lies in the reader's memory. -/
theorem Rdr.take {w : World} {lo hi g : Nat} {l : List UInt8} {k e : Nat} (h : Rdr w lo hi g l k e) (hl : l.length ≤ 1000000000) (m : Nat) (hm : m < 18446744073709551616) :
    Calls Try.prog 52 #[.pointer (some ⟨g, 0, none⟩), .int .u64 m] w fun e' w' => w.grownBy w' (some g) ∧ Rdr w' lo hi g l (takeS l k e m).2.1 (takeS l k e m).2.2 ∧
      ∃ A' c', e' = .returned (.tuple #[.slice A' (takeS l k e m).1.length c', .bool (decide (e = 0 ∧ m ≤ l.length - k))]) ∧ c' ≤ maxLen ∧ (takeS l k e m).1.length ≤ c' ∧ Src w' (fun b => lo ≤ b ∧ b < hi ∧ b ≠ g) A' (takeS l k e m).1.length (bcs (takeS l k e m).1) := by
  obtain ⟨A, c, hb, hs, h1, h2⟩ := h.ex
  have hhi := h.hi_le
  have hk := h.k_le
  refine (take_any hb hs (fun b hb => ⟨by omega, by omega⟩) h.k_le hl h1 h2 m hm).mono fun e' w' ⟨hg, hx⟩ => ⟨hg, ?_⟩
  rcases hx with ⟨h0, rfl, hr⟩ | ⟨h0, hlt, rfl, hr⟩ | ⟨h0, hle, hr, A', c', rfl, hc1, hc2, hs'⟩
  · have ht : takeS l k e m = ([], k, e) := by unfold takeS; rw [if_pos h0]
    rw [ht]
    refine ⟨h.step hs h1 h2 hg hr hk, none, 0, ?_, by simp [maxLen], Nat.le_refl _, Src.nil_ _ _ _⟩
    rw [decide_eq_false (by omega)]; rfl
  · have ht : takeS l k e m = ([], k, 5) := by unfold takeS; rw [if_neg (by omega), if_pos hlt]
    rw [ht]
    refine ⟨h.step hs h1 h2 hg hr hk, none, 0, ?_, by simp [maxLen], Nat.le_refl _, Src.nil_ _ _ _⟩
    rw [decide_eq_false (by omega)]; rfl
  · have ht : takeS l k e m = ((l.drop k).take m, k + m, 0) := by unfold takeS; rw [if_neg (by omega), if_neg (by omega)]
    have hlen : ((l.drop k).take m).length = m := by rw [List.length_take, List.length_drop]; omega
    rw [ht]
    simp only [hlen]
    refine ⟨h.step hs h1 h2 hg hr (by omega), A', c', ?_, hc2, hc1, hs'⟩
    rw [decide_eq_true (by omega)]

theorem takeS_len (l : List UInt8) (k e m : Nat) : (takeS l k e m).1.length ≤ l.length := by
  unfold takeS
  split
  · simp
  · split
    · simp
    · simp [List.length_take, List.length_drop]; omega

end Go.Proofs.Ytkglicidjdifkaa
