/- RecordNames: a region of it. No statement is proved here. -/
import Derived.Test.YtkglicidjdifkaaRQ
import Derived.Test.YtkglicidjdifkaaRM
namespace Go.Proofs.Ytkglicidjdifkaa.NM
open Go.RowKit RQ
set_option linter.unusedVariables false
set_option linter.unusedSimpArgs false

/-- The region's values. -/
def tup (A : Option Addr) (c : Nat) (nx : List UInt8) : Value := .tuple #[vR 9 A 2 c, .int .i64 12, .agg (bcs nx).toArray, .int .i64 0]
def ptr (g : Nat) : Value := .pointer (some ⟨g, 0, none⟩)
theorem ptr_ne {a b : Nat} (h : a ≠ b) : ptr a ≠ ptr b := fun e => h (by unfold ptr at e; injection e with e; injection e with e; injection e)
/-- What is known within the region. -/
structure FR (W : World) (c3 nx Lb : List UInt8) (A2 : Option Addr) (c2 : Nat) (D : Nat → Bool) (vs : Nat → Value) (w : World) : Prop where
  bel : Below W.heap.size W w
  v0 : D 0 = true → vs 0 = .agg (bcs c3).toArray
  v1 : D 1 = true → vs 1 = .slice A2 Lb.length c2
  v2 : D 2 = true → D 4 = false → w.ownsRow W.heap.size 5 1 (vs 2) Lb.length (bcs Lb) ∧ (∀ g, D 11 = true → vs 11 = ptr g → (vs 2).ownBlock ≠ some g) ∧ (∀ g, D 12 = true → vs 12 = ptr g → (vs 2).ownBlock ≠ some g)
  v3 : D 3 = true → D 4 = false → ∃ g, vs 3 = .slice (some ⟨g, 0, none⟩) 1 1 ∧ W.heap.size ≤ g ∧ w.heap[g]? = some (.cells #[.int .u8 7] 5 (0, 0))
  v4 : D 4 = true → D 5 = false → ∃ A c, vs 4 = .slice A (Lb.length + 1) c ∧ Lb.length + 1 ≤ c ∧ c ≤ maxLen ∧ Src w (· < w.heap.size) A (Lb.length + 1) (bcs (Lb ++ [7]))
  v5 : D 5 = true → ∃ A c, vs 5 = tup A c nx ∧ (D 6 = true → vs 6 = tup A c nx) ∧ (D 7 = true → vs 7 = vR 9 A 2 c) ∧ 2 ≤ c ∧ c ≤ maxLen ∧ Src w (fun b => W.heap.size ≤ b ∧ b < w.heap.size ∧ (D 11 = true → vs 11 ≠ ptr b) ∧ (D 12 = true → vs 12 ≠ ptr b)) A 2 (bcs [120, 121]) ∧ (D 13 = true → ∃ g, vs 11 = ptr g ∧ RAt w g 9 A 2 c)
  v8 : D 8 = true → vs 8 = .int .i64 12
  v9 : D 9 = true → vs 9 = .agg (bcs nx).toArray
  v10 : D 10 = true → vs 10 = .int .i64 0
  v11 : D 11 = true → ∃ g, vs 11 = ptr g ∧ W.heap.size ≤ g ∧ g < w.heap.size ∧ (D 13 = false → RAt w g 0 none 0 0)
  v12 : D 12 = true → ∃ g, vs 12 = ptr g ∧ W.heap.size ≤ g ∧ g < w.heap.size ∧ (D 15 = false → DAt w g (List.replicate 32 0)) ∧ (D 15 = true → DAt w g nx)
  ne : D 11 = true → D 12 = true → vs 11 ≠ vs 12
  v14 : D 14 = true → vs 14 = .int .i64 12
  v16 : D 16 = true → vs 16 = .int .i64 0
theorem own_row {w : World} {B m : Nat} {v : Value} {l : List UInt8} (h : w.ownsRow B 5 1 v m (bcs l)) (hm : 0 < m) : ∃ g cap cur, v = .slice (some ⟨g, 0, none⟩) m cap ∧ B ≤ g ∧ w.heap[g]? = some (.cells cur 5 (0, 0)) ∧ m ≤ cap ∧ cap ≤ maxLen ∧ cur.size = cap ∧ cur.toList.take m = bcs l := by
  rcases h.2 with ⟨rfl, h0⟩ | ⟨g, cap, cur, rfl, hb, hg, hnc, hcm, hcs, ht⟩
  · omega
  · exact ⟨g, cap, cur, rfl, hb, hg, hnc, hcm, by omega, by simpa using ht⟩
theorem row_src {w : World} {g m : Nat} {cur : Array Value} {l : List UInt8} (hg : w.heap[g]? = some (.cells cur 5 (0, 0))) (hm : m ≤ cur.size) (ht : cur.toList.take m = bcs l) : Src w (· < w.heap.size) (some ⟨g, 0, none⟩) m (bcs l) := by
  refine ⟨by rw [← ht]; simp; omega, fun _ => ⟨g, 0, rfl, (Array.getElem?_eq_some_iff.1 hg).1, fun i hi => ?_⟩⟩
  rw [Nat.zero_add, cell_of_row w g i _ _ _ hg, ← ht, List.getElem?_take, if_pos hi]
  simp
theorem ownsRow_keep {w w' : World} {base : Nat} {e : TypeId} {size : Nat} {v : Value} {k : Nat} {xs : List Value} (h : w.ownsRow base e size v k xs) (hb : Below w.heap.size w w') : w'.ownsRow base e size v k xs := by
  obtain ⟨h1, h2⟩ := h
  refine ⟨h1, h2.imp id ?_⟩
  rintro ⟨g, cap, cur, e1, e2, hg, r⟩
  exact ⟨g, cap, cur, e1, e2, (hb.block g (Array.getElem?_eq_some_iff.1 hg).1).trans hg, r⟩
theorem own_block {w : World} {base : Nat} {e : TypeId} {v : Value} {k : Nat} {xs : List Value} (h : w.ownsRow base e 1 v k xs) (g : Nat) (hg : v.ownBlock = some g) : base ≤ g ∧ g < w.heap.size := by
  rcases h.2 with ⟨rfl, _⟩ | ⟨g', cap, cur, rfl, hb, hh, _⟩
  · simp [Value.ownBlock] at hg
  · simp only [Value.ownBlock] at hg
    injection hg with hg
    subst hg
    exact ⟨hb, (Array.getElem?_eq_some_iff.1 hh).1⟩
theorem FR.keep {W : World} {c3 nx Lb : List UInt8} {A2 : Option Addr} {c2 : Nat} {D : Nat → Bool} {vs : Nat → Value} {w w' : World} (h : FR W c3 nx Lb A2 c2 D vs w) (hb : Below w.heap.size w w') : FR W c3 nx Lb A2 c2 D vs w' :=
  { h with
    bel := h.bel.trans (hb.mono h.bel.size)
    v2 := fun a b => ⟨ownsRow_keep (h.v2 a b).1 hb, (h.v2 a b).2⟩
    v3 := fun a b => by
      obtain ⟨g, e1, e2, e3⟩ := h.v3 a b
      exact ⟨g, e1, e2, (hb.block g (Array.getElem?_eq_some_iff.1 e3).1).trans e3⟩
    v4 := fun a b => by
      obtain ⟨A, c, e1, e2, e3, e4⟩ := h.v4 a b
      exact ⟨A, c, e1, e2, e3, e4.below hb (fun b hb' => Nat.lt_of_lt_of_le hb' hb.size)⟩
    v5 := fun a => by
      obtain ⟨A, c, e1, e2, e3, e4, e5, e6, e7⟩ := h.v5 a
      refine ⟨A, c, e1, e2, e3, e4, e5, (e6.below' hb (fun b hb' => hb'.2.1)).weak (fun b hb' => ⟨hb'.1, Nat.lt_of_lt_of_le hb'.2.1 hb.size, hb'.2.2⟩), fun a => ?_⟩
      obtain ⟨g, f1, f2⟩ := e7 a
      exact ⟨g, f1, f2.below hb f2.lt⟩
    v11 := fun a => by
      obtain ⟨g, e1, e2, e3, e4⟩ := h.v11 a
      exact ⟨g, e1, e2, Nat.lt_of_lt_of_le e3 hb.size, fun a => (e4 a).below hb (e4 a).lt⟩
    v12 := fun a => by
      obtain ⟨g, e1, e2, e3, e4, e5⟩ := h.v12 a
      exact ⟨g, e1, e2, Nat.lt_of_lt_of_le e3 hb.size, fun a => (e4 a).below hb (e4 a).lt, fun a => (e5 a).below hb (e5 a).lt⟩ }

theorem FR.s0 {W : World} {c3 nx Lb : List UInt8} {A2 : Option Addr} {c2 : Nat} {D : Nat → Bool} {vs : Nat → Value} {w : World} {v : Value} (h : FR W c3 nx Lb A2 c2 D vs w) (hD : D 0 = false) (hv : v = .agg (bcs c3).toArray) : FR W c3 nx Lb A2 c2 (up D 0) (uv vs 0 v) w where
  bel := h.bel
  v0 := fun _ => by simpa [uv] using hv
  v1 := by simpa [up, uv] using h.v1
  v2 := by simpa [up, uv] using h.v2
  v3 := by simpa [up, uv] using h.v3
  v4 := by simpa [up, uv] using h.v4
  v5 := by simpa [up, uv] using h.v5
  v8 := by simpa [up, uv] using h.v8
  v9 := by simpa [up, uv] using h.v9
  v10 := by simpa [up, uv] using h.v10
  v11 := by simpa [up, uv] using h.v11
  v12 := by simpa [up, uv] using h.v12
  ne := by simpa [up, uv] using h.ne
  v14 := by simpa [up, uv] using h.v14
  v16 := by simpa [up, uv] using h.v16
theorem FR.s1 {W : World} {c3 nx Lb : List UInt8} {A2 : Option Addr} {c2 : Nat} {D : Nat → Bool} {vs : Nat → Value} {w : World} {v : Value} (h : FR W c3 nx Lb A2 c2 D vs w) (hD : D 1 = false) (hv : v = .slice A2 Lb.length c2) : FR W c3 nx Lb A2 c2 (up D 1) (uv vs 1 v) w where
  bel := h.bel
  v0 := by simpa [up, uv] using h.v0
  v1 := fun _ => by simpa [uv] using hv
  v2 := by simpa [up, uv] using h.v2
  v3 := by simpa [up, uv] using h.v3
  v4 := by simpa [up, uv] using h.v4
  v5 := by simpa [up, uv] using h.v5
  v8 := by simpa [up, uv] using h.v8
  v9 := by simpa [up, uv] using h.v9
  v10 := by simpa [up, uv] using h.v10
  v11 := by simpa [up, uv] using h.v11
  v12 := by simpa [up, uv] using h.v12
  ne := by simpa [up, uv] using h.ne
  v14 := by simpa [up, uv] using h.v14
  v16 := by simpa [up, uv] using h.v16
theorem FR.s2 {W : World} {c3 nx Lb : List UInt8} {A2 : Option Addr} {c2 : Nat} {D : Nat → Bool} {vs : Nat → Value} {w : World} {v : Value} (h : FR W c3 nx Lb A2 c2 D vs w) (hD : D 2 = false) (hv : w.ownsRow W.heap.size 5 1 v Lb.length (bcs Lb)) (h1 : ∀ g, D 11 = true → vs 11 = ptr g → v.ownBlock ≠ some g) (h2 : ∀ g, D 12 = true → vs 12 = ptr g → v.ownBlock ≠ some g) : FR W c3 nx Lb A2 c2 (up D 2) (uv vs 2 v) w where
  bel := h.bel
  v0 := by simpa [up, uv] using h.v0
  v1 := by simpa [up, uv] using h.v1
  v2 := fun _ _ => by simpa [up, uv] using ⟨hv, h1, h2⟩
  v3 := by simpa [up, uv] using h.v3
  v4 := by simpa [up, uv] using h.v4
  v5 := by simpa [up, uv] using h.v5
  v8 := by simpa [up, uv] using h.v8
  v9 := by simpa [up, uv] using h.v9
  v10 := by simpa [up, uv] using h.v10
  v11 := by simpa [up, uv] using h.v11
  v12 := by simpa [up, uv] using h.v12
  ne := by simpa [up, uv] using h.ne
  v14 := by simpa [up, uv] using h.v14
  v16 := by simpa [up, uv] using h.v16
theorem FR.s3 {W : World} {c3 nx Lb : List UInt8} {A2 : Option Addr} {c2 : Nat} {D : Nat → Bool} {vs : Nat → Value} {w : World} {v : Value} (h : FR W c3 nx Lb A2 c2 D vs w) (hD : D 3 = false) (hv : ∃ g, v = .slice (some ⟨g, 0, none⟩) 1 1 ∧ W.heap.size ≤ g ∧ w.heap[g]? = some (.cells #[.int .u8 7] 5 (0, 0))) : FR W c3 nx Lb A2 c2 (up D 3) (uv vs 3 v) w where
  bel := h.bel
  v0 := by simpa [up, uv] using h.v0
  v1 := by simpa [up, uv] using h.v1
  v2 := by simpa [up, uv] using h.v2
  v3 := fun _ _ => by simpa [up, uv] using hv
  v4 := by simpa [up, uv] using h.v4
  v5 := by simpa [up, uv] using h.v5
  v8 := by simpa [up, uv] using h.v8
  v9 := by simpa [up, uv] using h.v9
  v10 := by simpa [up, uv] using h.v10
  v11 := by simpa [up, uv] using h.v11
  v12 := by simpa [up, uv] using h.v12
  ne := by simpa [up, uv] using h.ne
  v14 := by simpa [up, uv] using h.v14
  v16 := by simpa [up, uv] using h.v16
theorem FR.s5 {W : World} {c3 nx Lb : List UInt8} {A2 : Option Addr} {c2 : Nat} {D : Nat → Bool} {vs : Nat → Value} {w : World} {v : Value} (h : FR W c3 nx Lb A2 c2 D vs w) (hD : D 5 = false) (hv : ∃ A c, v = tup A c nx ∧ 2 ≤ c ∧ c ≤ maxLen ∧ Src w (fun b => W.heap.size ≤ b ∧ b < w.heap.size ∧ (D 11 = true → vs 11 ≠ ptr b) ∧ (D 12 = true → vs 12 ≠ ptr b)) A 2 (bcs [120, 121])) (h6 : D 6 = false) (h7 : D 7 = false) (h13 : D 13 = false) : FR W c3 nx Lb A2 c2 (up D 5) (uv vs 5 v) w where
  bel := h.bel
  v0 := by simpa [up, uv] using h.v0
  v1 := by simpa [up, uv] using h.v1
  v2 := by simpa [up, uv] using h.v2
  v3 := by simpa [up, uv] using h.v3
  v4 := by simp [up]
  v5 := fun _ => by
    obtain ⟨A, c, e1, e2, e3, e4⟩ := hv
    exact ⟨A, c, by simpa [uv] using e1, by simp [up, h6], by simp [up, h7], e2, e3, by simpa [up, uv] using e4, by simp [up, h13]⟩
  v8 := by simpa [up, uv] using h.v8
  v9 := by simpa [up, uv] using h.v9
  v10 := by simpa [up, uv] using h.v10
  v11 := by simpa [up, uv] using h.v11
  v12 := by simpa [up, uv] using h.v12
  ne := by simpa [up, uv] using h.ne
  v14 := by simpa [up, uv] using h.v14
  v16 := by simpa [up, uv] using h.v16
theorem FR.s6 {W : World} {c3 nx Lb : List UInt8} {A2 : Option Addr} {c2 : Nat} {D : Nat → Bool} {vs : Nat → Value} {w : World} {v : Value} (h : FR W c3 nx Lb A2 c2 D vs w) (hD : D 6 = false) (h5 : D 5 = true) (hv : v = vs 5) : FR W c3 nx Lb A2 c2 (up D 6) (uv vs 6 v) w where
  bel := h.bel
  v0 := by simpa [up, uv] using h.v0
  v1 := by simpa [up, uv] using h.v1
  v2 := by simpa [up, uv] using h.v2
  v3 := by simpa [up, uv] using h.v3
  v4 := by simpa [up, uv] using h.v4
  v5 := fun _ => by
    obtain ⟨A, c, e1, e2, e3, e4, e5, e6, e7⟩ := h.v5 h5
    exact ⟨A, c, by simpa [uv] using e1, fun _ => by simpa [uv] using hv.trans e1, by simpa [up, uv] using e3, e4, e5, by simpa [up, uv] using e6, by simpa [up, uv] using e7⟩
  v8 := by simpa [up, uv] using h.v8
  v9 := by simpa [up, uv] using h.v9
  v10 := by simpa [up, uv] using h.v10
  v11 := by simpa [up, uv] using h.v11
  v12 := by simpa [up, uv] using h.v12
  ne := by simpa [up, uv] using h.ne
  v14 := by simpa [up, uv] using h.v14
  v16 := by simpa [up, uv] using h.v16
theorem FR.s7 {W : World} {c3 nx Lb : List UInt8} {A2 : Option Addr} {c2 : Nat} {D : Nat → Bool} {vs : Nat → Value} {w : World} {v : Value} (h : FR W c3 nx Lb A2 c2 D vs w) (hD : D 7 = false) (h5 : D 5 = true) (hv : ∀ A c, vs 5 = tup A c nx → v = vR 9 A 2 c) : FR W c3 nx Lb A2 c2 (up D 7) (uv vs 7 v) w where
  bel := h.bel
  v0 := by simpa [up, uv] using h.v0
  v1 := by simpa [up, uv] using h.v1
  v2 := by simpa [up, uv] using h.v2
  v3 := by simpa [up, uv] using h.v3
  v4 := by simpa [up, uv] using h.v4
  v5 := fun _ => by
    obtain ⟨A, c, e1, e2, e3, e4, e5, e6, e7⟩ := h.v5 h5
    exact ⟨A, c, by simpa [uv] using e1, by simpa [up, uv] using e2, fun _ => by simpa [uv] using hv A c e1, e4, e5, by simpa [up, uv] using e6, by simpa [up, uv] using e7⟩
  v8 := by simpa [up, uv] using h.v8
  v9 := by simpa [up, uv] using h.v9
  v10 := by simpa [up, uv] using h.v10
  v11 := by simpa [up, uv] using h.v11
  v12 := by simpa [up, uv] using h.v12
  ne := by simpa [up, uv] using h.ne
  v14 := by simpa [up, uv] using h.v14
  v16 := by simpa [up, uv] using h.v16
theorem FR.s8 {W : World} {c3 nx Lb : List UInt8} {A2 : Option Addr} {c2 : Nat} {D : Nat → Bool} {vs : Nat → Value} {w : World} {v : Value} (h : FR W c3 nx Lb A2 c2 D vs w) (hD : D 8 = false) (hv : v = .int .i64 12) : FR W c3 nx Lb A2 c2 (up D 8) (uv vs 8 v) w where
  bel := h.bel
  v0 := by simpa [up, uv] using h.v0
  v1 := by simpa [up, uv] using h.v1
  v2 := by simpa [up, uv] using h.v2
  v3 := by simpa [up, uv] using h.v3
  v4 := by simpa [up, uv] using h.v4
  v5 := by simpa [up, uv] using h.v5
  v8 := fun _ => by simpa [uv] using hv
  v9 := by simpa [up, uv] using h.v9
  v10 := by simpa [up, uv] using h.v10
  v11 := by simpa [up, uv] using h.v11
  v12 := by simpa [up, uv] using h.v12
  ne := by simpa [up, uv] using h.ne
  v14 := by simpa [up, uv] using h.v14
  v16 := by simpa [up, uv] using h.v16
theorem FR.s9 {W : World} {c3 nx Lb : List UInt8} {A2 : Option Addr} {c2 : Nat} {D : Nat → Bool} {vs : Nat → Value} {w : World} {v : Value} (h : FR W c3 nx Lb A2 c2 D vs w) (hD : D 9 = false) (hv : v = .agg (bcs nx).toArray) : FR W c3 nx Lb A2 c2 (up D 9) (uv vs 9 v) w where
  bel := h.bel
  v0 := by simpa [up, uv] using h.v0
  v1 := by simpa [up, uv] using h.v1
  v2 := by simpa [up, uv] using h.v2
  v3 := by simpa [up, uv] using h.v3
  v4 := by simpa [up, uv] using h.v4
  v5 := by simpa [up, uv] using h.v5
  v8 := by simpa [up, uv] using h.v8
  v9 := fun _ => by simpa [uv] using hv
  v10 := by simpa [up, uv] using h.v10
  v11 := by simpa [up, uv] using h.v11
  v12 := by simpa [up, uv] using h.v12
  ne := by simpa [up, uv] using h.ne
  v14 := by simpa [up, uv] using h.v14
  v16 := by simpa [up, uv] using h.v16
theorem FR.s10 {W : World} {c3 nx Lb : List UInt8} {A2 : Option Addr} {c2 : Nat} {D : Nat → Bool} {vs : Nat → Value} {w : World} {v : Value} (h : FR W c3 nx Lb A2 c2 D vs w) (hD : D 10 = false) (hv : v = .int .i64 0) : FR W c3 nx Lb A2 c2 (up D 10) (uv vs 10 v) w where
  bel := h.bel
  v0 := by simpa [up, uv] using h.v0
  v1 := by simpa [up, uv] using h.v1
  v2 := by simpa [up, uv] using h.v2
  v3 := by simpa [up, uv] using h.v3
  v4 := by simpa [up, uv] using h.v4
  v5 := by simpa [up, uv] using h.v5
  v8 := by simpa [up, uv] using h.v8
  v9 := by simpa [up, uv] using h.v9
  v10 := fun _ => by simpa [uv] using hv
  v11 := by simpa [up, uv] using h.v11
  v12 := by simpa [up, uv] using h.v12
  ne := by simpa [up, uv] using h.ne
  v14 := by simpa [up, uv] using h.v14
  v16 := by simpa [up, uv] using h.v16
theorem FR.s14 {W : World} {c3 nx Lb : List UInt8} {A2 : Option Addr} {c2 : Nat} {D : Nat → Bool} {vs : Nat → Value} {w : World} {v : Value} (h : FR W c3 nx Lb A2 c2 D vs w) (hD : D 14 = false) (hv : v = .int .i64 12) : FR W c3 nx Lb A2 c2 (up D 14) (uv vs 14 v) w where
  bel := h.bel
  v0 := by simpa [up, uv] using h.v0
  v1 := by simpa [up, uv] using h.v1
  v2 := by simpa [up, uv] using h.v2
  v3 := by simpa [up, uv] using h.v3
  v4 := by simpa [up, uv] using h.v4
  v5 := by simpa [up, uv] using h.v5
  v8 := by simpa [up, uv] using h.v8
  v9 := by simpa [up, uv] using h.v9
  v10 := by simpa [up, uv] using h.v10
  v11 := by simpa [up, uv] using h.v11
  v12 := by simpa [up, uv] using h.v12
  ne := by simpa [up, uv] using h.ne
  v14 := fun _ => by simpa [uv] using hv
  v16 := by simpa [up, uv] using h.v16
theorem FR.s16 {W : World} {c3 nx Lb : List UInt8} {A2 : Option Addr} {c2 : Nat} {D : Nat → Bool} {vs : Nat → Value} {w : World} {v : Value} (h : FR W c3 nx Lb A2 c2 D vs w) (hD : D 16 = false) (hv : v = .int .i64 0) : FR W c3 nx Lb A2 c2 (up D 16) (uv vs 16 v) w where
  bel := h.bel
  v0 := by simpa [up, uv] using h.v0
  v1 := by simpa [up, uv] using h.v1
  v2 := by simpa [up, uv] using h.v2
  v3 := by simpa [up, uv] using h.v3
  v4 := by simpa [up, uv] using h.v4
  v5 := by simpa [up, uv] using h.v5
  v8 := by simpa [up, uv] using h.v8
  v9 := by simpa [up, uv] using h.v9
  v10 := by simpa [up, uv] using h.v10
  v11 := by simpa [up, uv] using h.v11
  v12 := by simpa [up, uv] using h.v12
  ne := by simpa [up, uv] using h.ne
  v14 := by simpa [up, uv] using h.v14
  v16 := fun _ => by simpa [uv] using hv

theorem FR.s11 {W : World} {c3 nx Lb : List UInt8} {A2 : Option Addr} {c2 : Nat} {D : Nat → Bool} {vs : Nat → Value} {w : World} (h : FR W c3 nx Lb A2 c2 D vs w) (hD : D 11 = false) (h13 : D 13 = false) : FR W c3 nx Lb A2 c2 (up D 11) (uv vs 11 (ptr w.heap.size)) (w.alloc (.cells #[.int .u8 ((0 : UInt8).toNat : Int), .slice none 0 0] 31)) :=
  have hb := below_alloc w (.cells #[.int .u8 ((0 : UInt8).toNat : Int), .slice none 0 0] 31)
  have k := h.keep hb
  { bel := k.bel
    v0 := by simpa [up, uv] using k.v0
    v1 := by simpa [up, uv] using k.v1
    v2 := fun a b => by
      have a' : D 2 = true := by simpa [up] using a
      have b' : D 4 = false := by simpa [up] using b
      refine ⟨by simpa [uv] using (k.v2 a' b').1, fun g _ e => ?_, fun g c e => ?_⟩
      · have e' : ptr w.heap.size = ptr g := by simpa [uv] using e
        have e2 : w.heap.size = g := by unfold ptr at e'; injection e' with e'; injection e' with e'; injection e'
        intro e3
        have e4 := (own_block (h.v2 a' b').1 g (by simpa [uv] using e3)).2
        omega
      · simpa [uv] using (k.v2 a' b').2.2 g (by simpa [up] using c) (by simpa [uv] using e)
    v3 := by simpa [up, uv] using k.v3
    v4 := by simpa [up, uv] using k.v4
    v5 := fun a => by
      obtain ⟨A, c, e1, e2, e3, e4, e5, e6, e7⟩ := h.v5 (by simpa [up] using a)
      refine ⟨A, c, by simpa [uv] using e1, by simpa [up, uv] using e2, by simpa [up, uv] using e3, e4, e5, ?_, fun q => absurd (show D 13 = true by simpa [up] using q) (by simp [h13])⟩
      refine (e6.below' hb (fun b hb' => hb'.2.1)).weak (fun b hb' => ⟨hb'.1, Nat.lt_of_lt_of_le hb'.2.1 hb.size, fun _ => ?_, fun q => by simpa [uv] using hb'.2.2.2 (by simpa [up] using q)⟩)
      have : ptr w.heap.size ≠ ptr b := ptr_ne (by have := hb'.2.1; omega)
      simpa [uv] using this
    v8 := by simpa [up, uv] using k.v8
    v9 := by simpa [up, uv] using k.v9
    v10 := by simpa [up, uv] using k.v10
    v11 := fun _ => ⟨w.heap.size, by simp [uv], h.bel.size, by simp, fun _ => ⟨heap_alloc_new w _⟩⟩
    v12 := by simpa [up, uv] using k.v12
    ne := fun _ a => by
      obtain ⟨g, e1, e2, e3, _⟩ := h.v12 (by simpa [up] using a)
      have : ptr w.heap.size ≠ vs 12 := by rw [e1]; exact ptr_ne (by omega)
      simpa [uv] using this
    v14 := by simpa [up, uv] using k.v14
    v16 := by simpa [up, uv] using k.v16 }
theorem FR.s12 {W : World} {c3 nx Lb : List UInt8} {A2 : Option Addr} {c2 : Nat} {D : Nat → Bool} {vs : Nat → Value} {w : World} (h : FR W c3 nx Lb A2 c2 D vs w) (hD : D 12 = false) (h15 : D 15 = false) : FR W c3 nx Lb A2 c2 (up D 12) (uv vs 12 (ptr w.heap.size)) (w.alloc (.cells (zbs 32) 23)) :=
  have hb := below_alloc w (.cells (zbs 32) 23)
  have k := h.keep hb
  { bel := k.bel
    v0 := by simpa [up, uv] using k.v0
    v1 := by simpa [up, uv] using k.v1
    v2 := fun a b => by
      have a' : D 2 = true := by simpa [up] using a
      have b' : D 4 = false := by simpa [up] using b
      refine ⟨by simpa [uv] using (k.v2 a' b').1, fun g c e => ?_, fun g _ e => ?_⟩
      · simpa [uv] using (k.v2 a' b').2.1 g (by simpa [up] using c) (by simpa [uv] using e)
      · have e' : ptr w.heap.size = ptr g := by simpa [uv] using e
        have e2 : w.heap.size = g := by unfold ptr at e'; injection e' with e'; injection e' with e'; injection e'
        intro e3
        have e4 := (own_block (h.v2 a' b').1 g (by simpa [uv] using e3)).2
        omega
    v3 := by simpa [up, uv] using k.v3
    v4 := by simpa [up, uv] using k.v4
    v5 := fun a => by
      obtain ⟨A, c, e1, e2, e3, e4, e5, e6, e7⟩ := h.v5 (by simpa [up] using a)
      refine ⟨A, c, by simpa [uv] using e1, by simpa [up, uv] using e2, by simpa [up, uv] using e3, e4, e5, ?_, fun q => ?_⟩
      · refine (e6.below' hb (fun b hb' => hb'.2.1)).weak (fun b hb' => ⟨hb'.1, Nat.lt_of_lt_of_le hb'.2.1 hb.size, fun q => by simpa [uv] using hb'.2.2.1 (by simpa [up] using q), fun _ => ?_⟩)
        have : ptr w.heap.size ≠ ptr b := ptr_ne (by have := hb'.2.1; omega)
        simpa [uv] using this
      · obtain ⟨g, f1, f2⟩ := e7 (by simpa [up] using q)
        exact ⟨g, by simpa [uv] using f1, f2.below hb f2.lt⟩
    v8 := by simpa [up, uv] using k.v8
    v9 := by simpa [up, uv] using k.v9
    v10 := by simpa [up, uv] using k.v10
    v11 := by simpa [up, uv] using k.v11
    v12 := fun _ => ⟨w.heap.size, by simp [uv], h.bel.size, by simp, fun _ => ⟨heap_alloc_new w _, by simp⟩, fun q => absurd (show D 15 = true by simpa [up] using q) (by simp [h15])⟩
    ne := fun a _ => by
      obtain ⟨g, e1, e2, e3, _⟩ := h.v11 (by simpa [up] using a)
      have : vs 11 ≠ ptr w.heap.size := by rw [e1]; exact ptr_ne (by omega)
      simpa [uv] using this
    v14 := by simpa [up, uv] using k.v14
    v16 := by simpa [up, uv] using k.v16 }
theorem FR.s4 {W : World} {c3 nx Lb : List UInt8} {A2 : Option Addr} {c2 : Nat} {D : Nat → Bool} {vs : Nat → Value} {w : World} {w' : World} {v : Value} (h : FR W c3 nx Lb A2 c2 D vs w) (hD : D 4 = false) (h2 : D 2 = true) (h5 : D 5 = false) (h13 : D 13 = false) (h15 : D 15 = false) (hg : w.grownBy w' (vs 2).ownBlock) (ho : w'.ownsRow W.heap.size 5 1 v (Lb.length + 1) (bcs (Lb ++ [7]))) : FR W c3 nx Lb A2 c2 (up D 4) (uv vs 4 v) w' :=
  have hob := h.v2 h2 hD
  { bel := h.bel.grown hg h.bel.size (fun r e => (own_block hob.1 r e).1)
    v0 := by simpa [up, uv] using h.v0
    v1 := by simpa [up, uv] using h.v1
    v2 := fun _ b => absurd b (by simp [up])
    v3 := fun _ b => absurd b (by simp [up])
    v4 := fun _ _ => by
      obtain ⟨g, cap, cur, e, h1, h2, h3, h4, h5, h6⟩ := own_row ho (by omega)
      exact ⟨some ⟨g, 0, none⟩, cap, by simpa [uv] using e, h3, h4, row_src h2 (by omega) h6⟩
    v5 := fun a => absurd (show D 5 = true by simpa [up] using a) (by simp [h5])
    v8 := by simpa [up, uv] using h.v8
    v9 := by simpa [up, uv] using h.v9
    v10 := by simpa [up, uv] using h.v10
    v11 := fun a => by
      obtain ⟨g, e1, e2, e3, e4⟩ := h.v11 (by simpa [up] using a)
      refine ⟨g, by simpa [uv] using e1, e2, Nat.lt_of_lt_of_le e3 hg.size, fun q => (e4 h13).grown hg (fun r e er => ?_)⟩
      subst er
      exact hob.2.1 r (by simpa [up] using a) e1 e
    v12 := fun a => by
      obtain ⟨g, e1, e2, e3, e4, e5⟩ := h.v12 (by simpa [up] using a)
      refine ⟨g, by simpa [uv] using e1, e2, Nat.lt_of_lt_of_le e3 hg.size, fun q => (e4 h15).grown hg (fun r e er => ?_), fun q => absurd (show D 15 = true by simpa [up] using q) (by simp [h15])⟩
      subst er
      exact hob.2.2 r (by simpa [up] using a) e1 e
    ne := by simpa [up, uv] using h.ne
    v14 := by simpa [up, uv] using h.v14
    v16 := by simpa [up, uv] using h.v16 }
theorem ptr_inj {a b : Nat} (h : ptr a = ptr b) : a = b := by unfold ptr at h; injection h with h; injection h with h; injection h
theorem FR.s13 {W : World} {c3 nx Lb : List UInt8} {A2 : Option Addr} {c2 : Nat} {D : Nat → Bool} {vs : Nat → Value} {w : World} {w' : World} {v : Value} (h : FR W c3 nx Lb A2 c2 D vs w) (hD : D 13 = false) (h4 : D 4 = true) (h5 : D 5 = true) {g : Nat} (h11 : vs 11 = ptr g) {A : Option Addr} {c : Nat} (h5v : vs 5 = tup A c nx) (hg : w.grownBy w' (some g)) (hr : RAt w' g 9 A 2 c) (hgw : W.heap.size ≤ g) (h12 : D 11 = true) : FR W c3 nx Lb A2 c2 (up D 13) (uv vs 13 v) w' :=
  { bel := h.bel.grown hg h.bel.size (fun r e => by cases e; exact hgw)
    v0 := by simpa [up, uv] using h.v0
    v1 := by simpa [up, uv] using h.v1
    v2 := fun _ b => absurd (show D 4 = false by simpa [up] using b) (by simp [h4])
    v3 := fun _ b => absurd (show D 4 = false by simpa [up] using b) (by simp [h4])
    v4 := fun _ b => absurd (show D 5 = false by simpa [up] using b) (by simp [h5])
    v5 := fun _ => by
      obtain ⟨A', c', e1, e2, e3, e4, e5, e6, e7⟩ := h.v5 h5
      have hA : A' = A ∧ c' = c := by
        rw [h5v] at e1
        unfold tup vR at e1
        simp at e1
        exact ⟨e1.1.symm, e1.2.symm⟩
      obtain ⟨rfl, rfl⟩ := hA
      refine ⟨A', c', by simpa [uv] using e1, by simpa [up, uv] using e2, by simpa [up, uv] using e3, e4, e5, ?_, fun _ => ⟨g, by simpa [uv] using h11, hr⟩⟩
      refine Src.grown e6 hg (fun b hb => ⟨hb.2.1, fun e => ?_⟩) (fun b hb => ⟨hb.1, Nat.lt_of_lt_of_le hb.2.1 hg.size, by simpa [up, uv] using hb.2.2.1, by simpa [up, uv] using hb.2.2.2⟩)
      injection e with e
      subst e
      exact hb.2.2.1 h12 h11
    v8 := by simpa [up, uv] using h.v8
    v9 := by simpa [up, uv] using h.v9
    v10 := by simpa [up, uv] using h.v10
    v11 := fun a => by
      obtain ⟨g', e1, e2, e3, e4⟩ := h.v11 (by simpa [up] using a)
      exact ⟨g', by simpa [uv] using e1, e2, Nat.lt_of_lt_of_le e3 hg.size, fun q => absurd q (by simp [up])⟩
    v12 := fun a => by
      have a' : D 12 = true := by simpa [up] using a
      obtain ⟨g', e1, e2, e3, e4, e5⟩ := h.v12 a'
      have hne : g ≠ g' := fun e => by subst e; exact h.ne h12 a' (h11.trans e1.symm)
      exact ⟨g', by simpa [uv] using e1, e2, Nat.lt_of_lt_of_le e3 hg.size, fun q => (e4 (by simpa [up] using q)).grown hg (fun r e => by cases e; exact hne), fun q => (e5 (by simpa [up] using q)).grown hg (fun r e => by cases e; exact hne)⟩
    ne := by simpa [up, uv] using h.ne
    v14 := by simpa [up, uv] using h.v14
    v16 := by simpa [up, uv] using h.v16 }
theorem FR.s15 {W : World} {c3 nx Lb : List UInt8} {A2 : Option Addr} {c2 : Nat} {D : Nat → Bool} {vs : Nat → Value} {w : World} {w' : World} {v : Value} (h : FR W c3 nx Lb A2 c2 D vs w) (hD : D 15 = false) (h4 : D 4 = true) (h5 : D 5 = true) (h11 : D 11 = true) (h13 : D 13 = true) {g : Nat} (h12 : vs 12 = ptr g) (hg : w.grownBy w' (some g)) (hr : DAt w' g nx) (hgw : W.heap.size ≤ g) (h12d : D 12 = true) : FR W c3 nx Lb A2 c2 (up D 15) (uv vs 15 v) w' :=
  { bel := h.bel.grown hg h.bel.size (fun r e => by cases e; exact hgw)
    v0 := by simpa [up, uv] using h.v0
    v1 := by simpa [up, uv] using h.v1
    v2 := fun _ b => absurd (show D 4 = false by simpa [up] using b) (by simp [h4])
    v3 := fun _ b => absurd (show D 4 = false by simpa [up] using b) (by simp [h4])
    v4 := fun _ b => absurd (show D 5 = false by simpa [up] using b) (by simp [h5])
    v5 := fun _ => by
      obtain ⟨A', c', e1, e2, e3, e4, e5, e6, e7⟩ := h.v5 h5
      refine ⟨A', c', by simpa [uv] using e1, by simpa [up, uv] using e2, by simpa [up, uv] using e3, e4, e5, ?_, fun _ => ?_⟩
      · refine Src.grown e6 hg (fun b hb => ⟨hb.2.1, fun e => ?_⟩) (fun b hb => ⟨hb.1, Nat.lt_of_lt_of_le hb.2.1 hg.size, by simpa [up, uv] using hb.2.2.1, by simpa [up, uv] using hb.2.2.2⟩)
        injection e with e
        subst e
        exact hb.2.2.2 h12d h12
      · obtain ⟨g', f1, f2⟩ := e7 h13
        exact ⟨g', by simpa [uv] using f1, f2.grown hg (fun r e => by cases e; intro e; subst e; exact h.ne h11 h12d (f1.trans h12.symm))⟩
    v8 := by simpa [up, uv] using h.v8
    v9 := by simpa [up, uv] using h.v9
    v10 := by simpa [up, uv] using h.v10
    v11 := fun a => by
      obtain ⟨g', e1, e2, e3, e4⟩ := h.v11 (by simpa [up] using a)
      exact ⟨g', by simpa [uv] using e1, e2, Nat.lt_of_lt_of_le e3 hg.size, fun q => absurd (show D 13 = false by simpa [up] using q) (by simp [h13])⟩
    v12 := fun _ => ⟨g, by simpa [uv] using h12, hgw, hr.lt, fun q => absurd q (by simp [up]), fun _ => hr⟩
    ne := by simpa [up, uv] using h.ne
    v14 := by simpa [up, uv] using h.v14
    v16 := by simpa [up, uv] using h.v16 }

def ops3 : List Oper := [{ dst := some 27, op := Op.load 23 (Operand.tmp 1), type := 23, pos := "law.go:29", after := #[], guard := none }, { dst := some 28, op := Op.move (Operand.tmp 2), type := 26, pos := "law.go:29", after := #[], guard := none }, { dst := some 29, op := Op.call { callee := Callee.value (Operand.func 10), args := #[Operand.tmp 28], argTypes := #[26] }, type := 26, pos := "law.go:29", after := #[{ on := 1, ground := Ground.data }], guard := none }, { dst := some 30, op := Op.buildSlice 26 1 #[(0, Operand.const (Value.int IntKind.u8 7))], type := 26, pos := "law.go:29", after := #[], guard := none }, { dst := some 31, op := Op.call { callee := Callee.builtin Builtin.append, args := #[Operand.tmp 29, Operand.tmp 30], argTypes := #[26, 26] }, type := 26, pos := "law.go:29", after := #[{ on := 2, ground := Ground.data }, { on := 3, ground := Ground.data }, { on := 2, ground := Ground.chain }], guard := none }, { dst := some 32, op := Op.call { callee := Callee.value (Operand.func 9), args := #[Operand.tmp 27, Operand.tmp 31], argTypes := #[23, 26] }, type := 32, pos := "law.go:29", after := #[{ on := 0, ground := Ground.data }, { on := 4, ground := Ground.data }, { on := 4, ground := Ground.chain }], guard := none }, { dst := some 26, op := Op.move (Operand.tmp 32), type := 32, pos := "law.go:29", after := #[{ on := 5, ground := Ground.data }], guard := none }, { dst := some 33, op := Op.extract (Operand.tmp 26) 0, type := 31, pos := "law.go:29", after := #[{ on := 6, ground := Ground.data }], guard := none }, { dst := some 34, op := Op.extract (Operand.tmp 26) 1, type := 3, pos := "law.go:29", after := #[{ on := 6, ground := Ground.data }, { on := 13, ground := Ground.gcOnly Departure.lateStores }], guard := none }, { dst := some 35, op := Op.extract (Operand.tmp 26) 2, type := 23, pos := "law.go:29", after := #[{ on := 6, ground := Ground.data }, { on := 14, ground := Ground.gcOnly Departure.lateStores }], guard := none }, { dst := some 36, op := Op.extract (Operand.tmp 26) 3, type := 27, pos := "law.go:29", after := #[{ on := 6, ground := Ground.data }, { on := 15, ground := Ground.gcOnly Departure.lateStores }], guard := none }, { dst := some 5, op := Op.alloc 31, type := 0, pos := "law.go:29", after := #[], guard := none }, { dst := some 7, op := Op.alloc 23, type := 0, pos := "law.go:29", after := #[], guard := none }, { dst := none, op := Op.store 31 (Operand.tmp 5) (Operand.tmp 33), type := 0, pos := "law.go:29", after := #[{ on := 11, ground := Ground.data }, { on := 7, ground := Ground.data }, { on := 5, ground := Ground.chain }, { on := 0, ground := Ground.phase }, { on := 1, ground := Ground.phase }, { on := 2, ground := Ground.phase }, { on := 3, ground := Ground.phase }, { on := 4, ground := Ground.phase }, { on := 5, ground := Ground.phase }, { on := 6, ground := Ground.phase }, { on := 7, ground := Ground.phase }, { on := 8, ground := Ground.textOnly Departure.lateStores }, { on := 9, ground := Ground.textOnly Departure.lateStores }, { on := 10, ground := Ground.textOnly Departure.lateStores }, { on := 11, ground := Ground.phase }, { on := 12, ground := Ground.phase }], guard := none }, { dst := some 6, op := Op.assign (Operand.tmp 34), type := 3, pos := "law.go:29", after := #[{ on := 8, ground := Ground.data }, { on := 13, ground := Ground.chain }, { on := 0, ground := Ground.phase }, { on := 1, ground := Ground.phase }, { on := 2, ground := Ground.phase }, { on := 3, ground := Ground.phase }, { on := 4, ground := Ground.phase }, { on := 5, ground := Ground.phase }, { on := 6, ground := Ground.phase }, { on := 7, ground := Ground.phase }, { on := 8, ground := Ground.phase }, { on := 9, ground := Ground.textOnly Departure.lateStores }, { on := 10, ground := Ground.textOnly Departure.lateStores }, { on := 11, ground := Ground.phase }, { on := 12, ground := Ground.phase }, { on := 13, ground := Ground.phase }], guard := none }, { dst := none, op := Op.store 23 (Operand.tmp 7) (Operand.tmp 35), type := 0, pos := "law.go:29", after := #[{ on := 12, ground := Ground.data }, { on := 9, ground := Ground.data }, { on := 14, ground := Ground.chain }, { on := 0, ground := Ground.phase }, { on := 1, ground := Ground.phase }, { on := 2, ground := Ground.phase }, { on := 3, ground := Ground.phase }, { on := 4, ground := Ground.phase }, { on := 5, ground := Ground.phase }, { on := 6, ground := Ground.phase }, { on := 7, ground := Ground.phase }, { on := 8, ground := Ground.phase }, { on := 9, ground := Ground.phase }, { on := 10, ground := Ground.textOnly Departure.lateStores }, { on := 11, ground := Ground.phase }, { on := 12, ground := Ground.phase }, { on := 13, ground := Ground.phase }, { on := 14, ground := Ground.phase }], guard := none }, { dst := some 8, op := Op.assign (Operand.tmp 36), type := 27, pos := "law.go:29", after := #[{ on := 10, ground := Ground.data }, { on := 15, ground := Ground.chain }, { on := 0, ground := Ground.phase }, { on := 1, ground := Ground.phase }, { on := 2, ground := Ground.phase }, { on := 3, ground := Ground.phase }, { on := 4, ground := Ground.phase }, { on := 5, ground := Ground.phase }, { on := 6, ground := Ground.phase }, { on := 7, ground := Ground.phase }, { on := 8, ground := Ground.phase }, { on := 9, ground := Ground.phase }, { on := 10, ground := Ground.phase }, { on := 11, ground := Ground.phase }, { on := 12, ground := Ground.phase }, { on := 13, ground := Ground.phase }, { on := 14, ground := Ground.phase }, { on := 15, ground := Ground.phase }], guard := none }]
theorem exec_move {a : Act} {w : World} {o : Oper} {x : Operand} {P : Program} (ho : o.op = .move x) : (execOp a.eval o).run P w = .ok (.value (a.eval x)) w := by
  unfold execOp
  simp [ho]
theorem put_none (a : Act) (v : Value) : a.put none v = a := rfl
theorem exec_extract {a : Act} {w : World} {o : Oper} {x : Operand} {P : Program} {j : Nat} {vs : Array Value} {v : Value} (ho : o.op = .extract x j) (hx : a.eval x = .tuple vs) (hv : vs[j]? = some v) : (execOp a.eval o).run P w = .ok (.value v) w := by
  unfold execOp
  simp [ho, hx, hv, Instr.extract]
theorem exec_assign {a : Act} {w : World} {o : Oper} {x : Operand} {P : Program} (ho : o.op = .assign x) : (execOp a.eval o).run P w = .ok (.value (a.eval x)) w := by
  unfold execOp
  simp [ho]
theorem no_of {a b : Bool} (h : a = true → b = true) (hb : b = false) : a = false := by cases a with
  | false => rfl
  | true => exact absurd (h rfl) (by simp [hb])
set_option maxRecDepth 100000 in
set_option maxHeartbeats 4000000 in
theorem region3 {W : World} {c3 nx Lb : List UInt8} {A2 : Option Addr} {c2 g1 : Nat} {a0 : Act} {Q : Exit → Act → World → Prop} (hsz : a0.tmps.size = 120) (h1 : a0.eval (.tmp 1) = ptr g1) (h2 : a0.eval (.tmp 2) = .slice A2 Lb.length c2)
    (hc : DAt W g1 c3) (hs : Src W (· < W.heap.size) A2 Lb.length (bcs Lb)) (hLb : Lb.length ≤ 1000) (hnx : nx.length = 32)
    (hread : readE c3 (Lb ++ [7]) = 0 ∧ readK (Lb ++ [7]) = 9 ∧ readD (Lb ++ [7]) = [120, 121] ∧ nextL c3 9 [120, 121] = nx)
    (hQ : ∀ A c g11 g12 w v2 v3 v4, Below W.heap.size W w → W.heap.size ≤ g11 → W.heap.size ≤ g12 → RAt w g11 9 A 2 c → DAt w g12 nx → 2 ≤ c → c ≤ maxLen → Src w (· < w.heap.size) A 2 (bcs [120, 121]) →
      Q .normal ((((((((((((((((a0.put (some 27) (.agg (bcs c3).toArray)).put (some 28) (.slice A2 Lb.length c2)).put (some 29) v2).put (some 30) v3).put (some 31) v4).put (some 32) (tup A c nx)).put (some 26) (tup A c nx)).put (some 33) (vR 9 A 2 c)).put (some 34) (.int .i64 12)).put (some 35) (.agg (bcs nx).toArray)).put (some 36) (.int .i64 0)).put (some 5) (ptr g11)).put (some 7) (ptr g12)).put (some 6) (.int .i64 12)).put (some 8) (.int .i64 0))) w) :
    (Code.region 3 ops3.toArray true).wp Try.prog Q a0 W := by
  obtain ⟨i0, hi, hz0, hz1, hz2⟩ := info_parts info5
  refine region_inv (l := ops3) (FR W c3 nx Lb A2 c2) 120 (by kernel_rfl) (by kernel_rfl) hsz ?_ ?_ ?_
  · refine ⟨?_, ?_, ?_, ?_, ?_, ?_, ?_, ?_, ?_, ?_, ?_, ?_, ?_, ?_, ?_, ?_, ?_, trivial⟩
    · intro L vs a w hL hd dc hF hD
      have hx : a.eval (.tmp 1) = ptr g1 := (hD.2 1 (by kernel_rfl)).trans h1
      exact .inl ⟨_, w, exec_dig rfl hx (hc.below hF.bel hc.lt), hF.s0 hL rfl⟩
    · intro L vs a w hL hd dc hF hD
      have hx : a.eval (.tmp 2) = .slice A2 Lb.length c2 := (hD.2 2 (by kernel_rfl)).trans h2
      exact .inl ⟨_, w, exec_move rfl, hF.s1 hL hx⟩
    · intro L vs a w hL hd dc hF hD
      have hv1 := hF.v1 (hd 1 (by kernel_rfl))
      have hx : a.eval (.tmp 28) = .slice A2 Lb.length c2 := (hD.1 1 28 (by kernel_rfl) rfl).trans hv1
      refine .inr (.inr ⟨10, #[.slice A2 Lb.length c2], ?_, ?_⟩)
      · show (execOp a.eval ({ dst := some 29, op := Op.call { callee := Callee.value (Operand.func 10), args := #[Operand.tmp 28], argTypes := #[26] }, type := 26, pos := "law.go:29", after := #[{ on := 1, ground := Ground.data }], guard := none } : Oper)).run Try.prog w = _
        go_simp
        simpa [Act.eval] using hx
      · refine (own_any w (· < W.heap.size) A2 Lb.length c2 Lb (hs.below' hF.bel (fun b hb => hb)) (fun b hb => Nat.lt_of_lt_of_le hb hF.bel.size) (by omega)).mono ?_
        rintro e w' ⟨v, rfl, ho, hb⟩
        have hk := hF.keep hb
        refine ⟨v, rfl, hk.s2 hL (own_base ho hF.bel.size) (fun g a1 a2 e => ?_) (fun g a1 a2 e => ?_)⟩
        · obtain ⟨g', f1, f2, f3, _⟩ := hF.v11 a1
          have := (own_block ho g e).1
          have := ptr_inj (f1.symm.trans a2)
          omega
        · obtain ⟨g', f1, f2, f3, _⟩ := hF.v12 a1
          have := (own_block ho g e).1
          have := ptr_inj (f1.symm.trans a2)
          omega
    · intro L vs a w hL hd dc hF hD
      have hb := below_alloc w (.cells #[.int .u8 7] 5)
      refine .inl ⟨.slice (some ⟨w.heap.size, 0, none⟩) 1 1, w.alloc (.cells #[.int .u8 7] 5), ?_, (hF.keep hb).s3 hL ⟨_, rfl, hF.bel.size, heap_alloc_new w _⟩⟩
      show (execOp a.eval ({ dst := some 30, op := Op.buildSlice 26 1 #[(0, Operand.const (Value.int IntKind.u8 7))], type := 26, pos := "law.go:29", after := #[], guard := none } : Oper)).run Try.prog w = _
      go_simp
    · intro L vs a w hL hd dc hF hD
      have d2 := hd 2 (by kernel_rfl)
      have d3 := hd 3 (by kernel_rfl)
      have n5 : L 5 = false := no_of (fun q => dc 5 4 q (by kernel_rfl)) hL
      have n13 : L 13 = false := no_of (fun q => dc 13 4 q (by kernel_rfl)) hL
      have n15 : L 15 = false := no_of (fun q => dc 15 4 q (by kernel_rfl)) hL
      have hx2 : a.eval (.tmp 29) = vs 2 := hD.1 2 29 (by kernel_rfl) rfl
      obtain ⟨g3, e3, f3, h3⟩ := hF.v3 d3 hL
      have hx3 : a.eval (.tmp 30) = .slice (some ⟨g3, 0, none⟩) 1 1 := (hD.1 3 30 (by kernel_rfl) rfl).trans e3
      have hsrc : Src w (· < w.heap.size) (some ⟨g3, 0, none⟩) 1 (bcs [7]) := row_src h3 (by simp) rfl
      obtain ⟨v', w', hrun, q2, q3, q4⟩ := run_app (P := Try.prog) w W.heap.size 26 26 5 i0 (.int .u8 0) 1 Try.underlying26 hi hz0 hz1 hz2 rfl (vs 2) Lb.length (bcs Lb) (hF.v2 d2 hL).1 (· < w.heap.size) (some ⟨g3, 0, none⟩) 1 1 (bcs [7]) hsrc (bcs_one _) (by unfold maxLen; omega) (by omega) hF.bel.size
      refine .inl ⟨v', w', ?_, hF.s4 hL d2 n5 n13 n15 q3 (by rw [bcs_append]; exact q2)⟩
      show (execOp a.eval ({ dst := some 31, op := Op.call { callee := Callee.builtin Builtin.append, args := #[Operand.tmp 29, Operand.tmp 30], argTypes := #[26, 26] }, type := 26, pos := "law.go:29", after := #[{ on := 2, ground := Ground.data }, { on := 3, ground := Ground.data }, { on := 2, ground := Ground.chain }], guard := none } : Oper)).run Try.prog w = _
      unfold execOp
      simp only [resolve, invoke, builtin, Sem.run_bind, Sem.run_pure, Result.andThen_ok, List.map_toArray, List.map_cons, List.map_nil, hx2, hx3, hrun]
    · intro L vs a w hL hd dc hF hD
      have d0 := hd 0 (by kernel_rfl)
      have d4 := hd 4 (by kernel_rfl)
      have n6 : L 6 = false := no_of (fun q => dc 6 5 q (by kernel_rfl)) hL
      have n7 : L 7 = false := no_of (fun q => dc 6 5 (dc 7 6 q (by kernel_rfl)) (by kernel_rfl)) hL
      have n13 : L 13 = false := no_of (fun q => dc 13 5 q (by kernel_rfl)) hL
      have hx0 : a.eval (.tmp 27) = .agg (bcs c3).toArray := (hD.1 0 27 (by kernel_rfl) rfl).trans (hF.v0 d0)
      obtain ⟨A4, c4, e4, f1, f2, hs4⟩ := hF.v4 d4 hL
      have hx4 : a.eval (.tmp 31) = .slice A4 (Lb.length + 1) c4 := (hD.1 4 31 (by kernel_rfl) rfl).trans e4
      refine .inr (.inr ⟨9, #[.agg (bcs c3).toArray, .slice A4 (Lb.length + 1) c4], ?_, ?_⟩)
      · show (execOp a.eval ({ dst := some 32, op := Op.call { callee := Callee.value (Operand.func 9), args := #[Operand.tmp 27, Operand.tmp 31], argTypes := #[23, 26] }, type := 32, pos := "law.go:29", after := #[{ on := 0, ground := Ground.data }, { on := 4, ground := Ground.data }, { on := 4, ground := Ground.chain }], guard := none } : Oper)).run Try.prog w = _
        go_simp
        exact ⟨by simpa [Act.eval] using hx0, by simpa [Act.eval] using hx4⟩
      · refine (recread_any w (· < w.heap.size) c3 hc.len A4 (Lb.length + 1) c4 (Lb ++ [7]) hs4 (fun b hb => hb) ⟨f1, f2⟩ (by omega)).mono ?_
        rintro e w' ⟨hr0, -, hb⟩
        obtain ⟨A, c, rfl, hs5, k1, k2⟩ := hr0 hread.1
        rw [hread.2.2.1] at hs5 k1
        rw [hread.2.1, hread.2.2.1, hread.2.2.2]
        have hk := hF.keep hb
        refine ⟨_, rfl, hk.s5 hL ⟨A, c, rfl, k1, k2, hs5.weak (fun b hb' => ⟨Nat.le_trans hF.bel.size hb'.1, hb'.2, fun q e => ?_, fun q e => ?_⟩)⟩ n6 n7 n13⟩
        · obtain ⟨g', m1, m2, m3, _⟩ := hF.v11 q
          have := ptr_inj (m1.symm.trans e)
          have := hb'.1
          omega
        · obtain ⟨g', m1, m2, m3, _⟩ := hF.v12 q
          have := ptr_inj (m1.symm.trans e)
          have := hb'.1
          omega
    · intro L vs a w hL hd dc hF hD
      have hx : a.eval (.tmp 32) = vs 5 := hD.1 5 32 (by kernel_rfl) rfl
      exact .inl ⟨_, w, exec_move rfl, hF.s6 hL (hd 5 (by kernel_rfl)) hx⟩
    · intro L vs a w hL hd dc hF hD
      have d6 := hd 6 (by kernel_rfl)
      have d5 := dc 6 5 d6 (by kernel_rfl)
      obtain ⟨A, c, e1, e2, _⟩ := hF.v5 d5
      have hx : a.eval (.tmp 26) = tup A c nx := (hD.1 6 26 (by kernel_rfl) rfl).trans (e2 d6)
      refine .inl ⟨vR 9 A 2 c, w, ?_, hF.s7 hL d5 (fun A' c' e => ?_)⟩
      · exact exec_extract rfl hx rfl
      · rw [e1] at e
        unfold tup vR at e
        simp at e
        obtain ⟨rfl, rfl⟩ := e
        rfl
    · intro L vs a w hL hd dc hF hD
      have d6 := hd 6 (by kernel_rfl)
      have d5 := dc 6 5 d6 (by kernel_rfl)
      obtain ⟨A, c, e1, e2, _⟩ := hF.v5 d5
      have hx : a.eval (.tmp 26) = tup A c nx := (hD.1 6 26 (by kernel_rfl) rfl).trans (e2 d6)
      exact .inl ⟨.int .i64 12, w, exec_extract rfl hx rfl, hF.s8 hL rfl⟩
    · intro L vs a w hL hd dc hF hD
      have d6 := hd 6 (by kernel_rfl)
      have d5 := dc 6 5 d6 (by kernel_rfl)
      obtain ⟨A, c, e1, e2, _⟩ := hF.v5 d5
      have hx : a.eval (.tmp 26) = tup A c nx := (hD.1 6 26 (by kernel_rfl) rfl).trans (e2 d6)
      exact .inl ⟨.agg (bcs nx).toArray, w, exec_extract rfl hx rfl, hF.s9 hL rfl⟩
    · intro L vs a w hL hd dc hF hD
      have d6 := hd 6 (by kernel_rfl)
      have d5 := dc 6 5 d6 (by kernel_rfl)
      obtain ⟨A, c, e1, e2, _⟩ := hF.v5 d5
      have hx : a.eval (.tmp 26) = tup A c nx := (hD.1 6 26 (by kernel_rfl) rfl).trans (e2 d6)
      exact .inl ⟨.int .i64 0, w, exec_extract rfl hx rfl, hF.s10 hL rfl⟩
    · intro L vs a w hL hd dc hF hD
      have n13 : L 13 = false := no_of (fun q => dc 13 11 q (by kernel_rfl)) hL
      refine .inl ⟨ptr w.heap.size, _, exec_alloc 31 rfl zR zero31 w, hF.s11 hL n13⟩
    · intro L vs a w hL hd dc hF hD
      have n15 : L 15 = false := no_of (fun q => dc 15 12 q (by kernel_rfl)) hL
      refine .inl ⟨ptr w.heap.size, _, exec_alloc 23 rfl (.agg (zbs 32)) zero23 w, hF.s12 hL n15⟩
    · intro L vs a w hL hd dc hF hD
      have d11 := hd 11 (by kernel_rfl)
      have d7 := hd 7 (by kernel_rfl)
      have d5 := hd 5 (by kernel_rfl)
      have d4 := hd 4 (by kernel_rfl)
      obtain ⟨A, c, e1, _, e3, _⟩ := hF.v5 d5
      obtain ⟨g, m1, m2, m3, m4⟩ := hF.v11 d11
      have hx : a.eval (.tmp 33) = vR 9 A 2 c := (hD.1 7 33 (by kernel_rfl) rfl).trans (e3 d7)
      have hp : a.eval (.tmp 5) = .pointer (some ⟨g, 0, none⟩) := (hD.1 11 5 (by kernel_rfl) rfl).trans m1
      obtain ⟨w', q1, q2, q3, q4⟩ := exec_store_all (P := Try.prog) (a := a) (w := w) (o := ({ dst := none, op := Op.store 31 (Operand.tmp 5) (Operand.tmp 33), type := 0, pos := "law.go:29", after := #[{ on := 11, ground := Ground.data }, { on := 7, ground := Ground.data }, { on := 5, ground := Ground.chain }, { on := 0, ground := Ground.phase }, { on := 1, ground := Ground.phase }, { on := 2, ground := Ground.phase }, { on := 3, ground := Ground.phase }, { on := 4, ground := Ground.phase }, { on := 5, ground := Ground.phase }, { on := 6, ground := Ground.phase }, { on := 7, ground := Ground.phase }, { on := 8, ground := Ground.textOnly Departure.lateStores }, { on := 9, ground := Ground.textOnly Departure.lateStores }, { on := 10, ground := Ground.textOnly Departure.lateStores }, { on := 11, ground := Ground.phase }, { on := 12, ground := Ground.phase }], guard := none } : Oper)) 31 (.tmp 5) (.tmp 33) rfl g hp #[.int .u8 ((9 : UInt8).toNat : Int), .slice A 2 c] hx 31 _ (m4 hL).row (by rw [size31]; rfl) rfl (by intro u hu; simp at hu; rcases hu with rfl | rfl <;> rfl)
      exact .inr (.inl ⟨rfl, w', q1, hF.s13 hL d4 d5 m1 e1 q3 ⟨q2⟩ m2 d11⟩)
    · intro L vs a w hL hd dc hF hD
      have hx : a.eval (.tmp 34) = .int .i64 12 := (hD.1 8 34 (by kernel_rfl) rfl).trans (hF.v8 (hd 8 (by kernel_rfl)))
      exact .inl ⟨_, w, exec_assign rfl, hF.s14 hL hx⟩
    · intro L vs a w hL hd dc hF hD
      have d11 := hd 11 (by kernel_rfl)
      have d12 := hd 12 (by kernel_rfl)
      have d13 := hd 13 (by kernel_rfl)
      have d5 := hd 5 (by kernel_rfl)
      have d4 := hd 4 (by kernel_rfl)
      obtain ⟨g, m1, m2, m3, m4, m5⟩ := hF.v12 d12
      have hx : a.eval (.tmp 35) = .agg (bcs nx).toArray := (hD.1 9 35 (by kernel_rfl) rfl).trans (hF.v9 (hd 9 (by kernel_rfl)))
      have hp : a.eval (.tmp 7) = .pointer (some ⟨g, 0, none⟩) := (hD.1 12 7 (by kernel_rfl) rfl).trans m1
      obtain ⟨w', q1, q2, q3, q4⟩ := exec_store_all (P := Try.prog) (a := a) (w := w) (o := ({ dst := none, op := Op.store 23 (Operand.tmp 7) (Operand.tmp 35), type := 0, pos := "law.go:29", after := #[{ on := 12, ground := Ground.data }, { on := 9, ground := Ground.data }, { on := 14, ground := Ground.chain }, { on := 0, ground := Ground.phase }, { on := 1, ground := Ground.phase }, { on := 2, ground := Ground.phase }, { on := 3, ground := Ground.phase }, { on := 4, ground := Ground.phase }, { on := 5, ground := Ground.phase }, { on := 6, ground := Ground.phase }, { on := 7, ground := Ground.phase }, { on := 8, ground := Ground.phase }, { on := 9, ground := Ground.phase }, { on := 10, ground := Ground.textOnly Departure.lateStores }, { on := 11, ground := Ground.phase }, { on := 12, ground := Ground.phase }, { on := 13, ground := Ground.phase }, { on := 14, ground := Ground.phase }], guard := none } : Oper)) 23 (.tmp 7) (.tmp 35) rfl g hp (bcs nx).toArray hx 23 _ (m4 hL).row (by rw [size23]; simp [bcs_len, hnx]) (by simp [bcs_len, hnx]) (by simpa using bcs_one nx)
      exact .inr (.inl ⟨rfl, w', q1, hF.s15 hL d4 d5 d11 d13 m1 q3 ⟨q2, hnx⟩ m2 d12⟩)
    · intro L vs a w hL hd dc hF hD
      have hx : a.eval (.tmp 36) = .int .i64 0 := (hD.1 10 36 (by kernel_rfl) rfl).trans (hF.v10 (hd 10 (by kernel_rfl)))
      exact .inl ⟨_, w, exec_assign rfl, hF.s16 hL hx⟩
  · exact ⟨⟨rfl, rfl, rfl, Nat.le_refl _, fun _ _ => rfl⟩, fun h => (by cases h), fun h => (by cases h), fun h => (by cases h), fun h => (by cases h), fun h => (by cases h), fun h => (by cases h), fun h => (by cases h), fun h => (by cases h), fun h => (by cases h), fun h => (by cases h), fun h => (by cases h), fun h => (by cases h), fun h => (by cases h), fun h => (by cases h)⟩
  · intro L vs w hall hF
    have al : ∀ i, i < 17 → L i = true := fun i hi => hall i hi
    obtain ⟨A, c, e1, e2, e3, e4, e5, e6, e7⟩ := hF.v5 (al 5 (by omega))
    obtain ⟨g11, m1, m2, m3, _⟩ := hF.v11 (al 11 (by omega))
    obtain ⟨g12, n1, n2, n3, _, n5⟩ := hF.v12 (al 12 (by omega))
    obtain ⟨g', r1, r2⟩ := e7 (al 13 (by omega))
    have hg := ptr_inj (r1.symm.trans m1)
    subst hg
    have hq := hQ A c g' g12 w (vs 2) (vs 3) (vs 4) hF.bel m2 n2 r2 (n5 (al 15 (by omega))) e4 e5 (e6.weak (fun b hb => hb.2.1))
    simp only [ops3, lexi, put_none]
    rw [hF.v0 (al 0 (by omega)), hF.v1 (al 1 (by omega)), e1, e2 (al 6 (by omega)), e3 (al 7 (by omega)), hF.v8 (al 8 (by omega)), hF.v9 (al 9 (by omega)), hF.v10 (al 10 (by omega)), m1, n1, hF.v14 (al 14 (by omega)), hF.v16 (al 16 (by omega))]
    exact hq
end Go.Proofs.Ytkglicidjdifkaa.NM
