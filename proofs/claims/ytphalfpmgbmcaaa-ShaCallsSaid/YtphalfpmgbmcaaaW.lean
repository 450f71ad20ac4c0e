/- Words on memory for the walks of this seat: a slice that reads as a list wherever it lies (nil too), a row of the call's own, appends from any such source. No statement is proved here. -/
import Derived.WalkKit
import Derived.WalkSpells
import Derived.WalkLawsBesides
import Derived.Maps.AppendAt
import Derived.Deep.Draws
import Derived.Lib.Hide
namespace Go.Proofs.Ytphalfpmgbmcaaa
open Go.RowKit

/-- One byte as a cell. -/
def bc (b : UInt8) : Value := .int .u8 (b.toNat : Int)
/-- Bytes as cells. -/
def bcs (l : List UInt8) : List Value := l.map bc

theorem bcs_len (l : List UInt8) : (bcs l).length = l.length := List.length_map ..
theorem bcs_one (l : List UInt8) : ∀ u ∈ bcs l, u.oneCell' = true := by
  intro u hu
  obtain ⟨b, _, rfl⟩ := List.mem_map.1 hu
  rfl
theorem bcs_append (a b : List UInt8) : bcs (a ++ b) = bcs a ++ bcs b := List.map_append ..
theorem bcs_snoc (l : List UInt8) (b : UInt8) : bcs l ++ [.int .u8 (b.toNat : Int)] = bcs (l ++ [b]) := by rw [bcs_append]; rfl
theorem bcs_get (l : List UInt8) (i : Nat) : (bcs l)[i]? = l[i]?.map bc := List.getElem?_map ..

/-- The slice value with address A and n elements reads as xs, in a block that S allows. -/
structure Src (w : World) (S : Nat → Prop) (A : Option Addr) (n : Nat) (xs : List Value) : Prop where
  len : xs.length = n
  lies : 0 < n → ∃ b o, A = some ⟨b, o, none⟩ ∧ S b ∧ ∀ i, i < n → w.cell? ⟨b, o + i, none⟩ = xs[i]?

section
variable {w w' : World} {S S' : Nat → Prop} {A : Option Addr} {n : Nat} {xs : List Value}
theorem Src.nil_ (w : World) (S : Nat → Prop) (A : Option Addr) : Src w S A 0 [] := ⟨rfl, fun h => absurd h (by omega)⟩
theorem Src.keep (h : Src w S A n xs) (hk : ∀ b o, S b → w'.cell? ⟨b, o, none⟩ = w.cell? ⟨b, o, none⟩) (hS : ∀ b, S b → S' b) : Src w' S' A n xs :=
  ⟨h.len, fun hn => by
    obtain ⟨b, o, e, hb, hc⟩ := h.lies hn
    exact ⟨b, o, e, hS b hb, fun i hi => (hk b _ hb).trans (hc i hi)⟩⟩
theorem Src.weak (h : Src w S A n xs) (hS : ∀ b, S b → S' b) : Src w S' A n xs := h.keep (fun _ _ _ => rfl) hS
theorem Src.below {B : Nat} (h : Src w (· < B) A n xs) (hb : Below B w w') (hS : ∀ b, b < B → S' b) : Src w' S' A n xs :=
  h.keep (fun b o hlt => hb.cell (p := ⟨b, o, none⟩) hlt) hS
/-- Everything but one row is as it was. -/
theorem Src.grown {row : Option Nat} (h : Src w S A n xs) (hg : w.grownBy w' row) (hS : ∀ b, S b → b < w.heap.size ∧ some b ≠ row) (hS' : ∀ b, S b → S' b) : Src w' S' A n xs :=
  h.keep (fun b o hb => World.cell?_of_block (a := ⟨b, o, none⟩) (hg.block b (hS b hb).1 (hS b hb).2)) hS'
theorem Src.drewN (h : Src w S A n xs) (k : Nat) : Src (w.drewN k) S A n xs := ⟨h.len, h.lies⟩
theorem Src.alloc (h : Src w S A n xs) (hS : ∀ b, S b → b < w.heap.size) (o : Obj) : Src (w.alloc o) S A n xs :=
  h.keep (fun b j hb => World.cell?_alloc_lt w o ⟨b, j, none⟩ (hS b hb)) fun _ hb => hb
theorem Src.cells {b o : Nat} (h : Src w S (some ⟨b, o, none⟩) n xs) (j : Nat) (u : Value) (hu : xs[j]? = some u) : w.cell? ((⟨b, o, none⟩ : Addr).add j) = some u := by
  have hj : j < n := by have := (List.getElem?_eq_some_iff.1 hu).1; have := h.len; omega
  obtain ⟨b', o', e, _, hc⟩ := h.lies (by omega)
  injection e with e
  injection e with e1 e2
  subst e1; subst e2
  have := hc j hj
  rw [hu] at this
  unfold Addr.add
  split
  · rename_i h0; subst h0; simpa using this
  · exact this
/-- A source of the call's own. -/
theorem Src.own {base : Nat} {e : TypeId} {c : Nat} (h : w.ownsRow base e 1 (.slice A n c) n xs) (hS : ∀ g, base ≤ g → g < w.heap.size → S g) : Src w S A n xs := by
  refine ⟨by have := h.1; omega, fun hn => ?_⟩
  rcases h.2 with ⟨_, h0⟩ | ⟨g, cap, cur, hv, hb, hg, hnc, hcm, hcs, ht⟩
  · omega
  · injection hv with hv1 hv2
    refine ⟨g, 0, hv1, hS g hb (Array.getElem?_eq_some_iff.1 hg).1, fun i hi => ?_⟩
    rw [Nat.zero_add, cell_of_row w g i cur e (0, 0) hg, ← ht, List.getElem?_take]
    rw [if_pos (by omega)]
    simp
/-- Cut in front. -/
theorem Src.drop_ {c : Nat} (h : Src w S A n xs) (k : Nat) (hk : k ≤ n) (hc : n ≤ c) : Src w S (if c = k then A else A.map (·.add k)) (n - k) (xs.drop k) := by
  refine ⟨by rw [List.length_drop, h.len], fun hn => ?_⟩
  obtain ⟨b, o, rfl, hb, hcell⟩ := h.lies (by omega)
  refine ⟨b, o + k, ?_, hb, fun i hi => ?_⟩
  · rw [if_neg (by omega)]
    by_cases h0 : k = 0 <;> simp [Addr.add, h0]
  · rw [List.getElem?_drop, ← hcell (k + i) (by omega), Nat.add_assoc]
theorem Src.take_ (h : Src w S A n xs) (k : Nat) (hk : k ≤ n) : Src w S A k (xs.take k) := by
  refine ⟨by rw [List.length_take, h.len]; omega, fun hn => ?_⟩
  obtain ⟨b, o, e, hb, hcell⟩ := h.lies (by omega)
  exact ⟨b, o, e, hb, fun i hi => by rw [List.getElem?_take, if_pos hi]; exact hcell i (by omega)⟩
end

section
variable {P : Program} (w : World)
/-- append from any source, onto a row of the call's own. -/
theorem run_app (base : Nat) (t ty e : TypeId) (i : TypeInfo) (z : Value) (bytes : Nat) (ht : P.underlying t = some (.slice e)) (hi : P.info? e = some i) (hz : i.zero = some z)
    (hsize : i.size = 1) (hby : i.bytes = bytes) (hzs : z.cells.size = 1)
    (v : Value) (n : Nat) (xs : List Value) (hown : w.ownsRow base e 1 v n xs)
    (S : Nat → Prop) (A : Option Addr) (m c : Nat) (ys : List Value) (hs : Src w S A m ys) (h1 : ∀ u ∈ ys, u.oneCell' = true)
    (h63 : n + m ≤ maxLen) (hbytes : (n + m) * bytes ≤ 140737488355328) (hbase : base ≤ w.heap.size) :
    ∃ v' w', (Builtin.append_ #[t, t] ty #[v, .slice A m c]).run P w = .ok v' w' ∧ w'.ownsRow base e 1 v' (n + m) (xs ++ ys) ∧ w.grownBy w' v.ownBlock ∧
      (v'.ownBlock = v.ownBlock ∨ v'.ownBlock = some w.heap.size) := by
  rcases Nat.eq_zero_or_pos m with h0 | h0
  · subst h0
    have hy : ys = [] := List.eq_nil_of_length_eq_zero hs.len
    subst hy
    rcases A with _ | ad
    · refine ⟨v, w, ?_, by simpa using hown, World.grownBy.refl w _, .inl rfl⟩
      rcases hown.2 with ⟨rfl, rfl⟩ | ⟨g, cap, cur, rfl, _, _, hnc, _⟩
      · simp [Builtin.append_, run_underlying ht, sizeOf, typeInfo, hi, Builtin.lenOf, Builtin.firstCells]
      · simp [Builtin.append_, run_underlying ht, sizeOf, typeInfo, hi, Builtin.lenOf, Builtin.firstCells, hnc, storeCells]
    · obtain ⟨v', w', hrun, h2, h3, _, h5⟩ := run_append_own_at (P := P) w base t ty e i z 1 bytes ht hi hz hsize hby hzs (by omega) v n xs hown ad 0 c [] (by simp) (by simp) (by simp) h63 hbytes hbase
      exact ⟨v', w', hrun, h2, h3, h5⟩
  · obtain ⟨b, o, rfl, _, _⟩ := hs.lies h0
    obtain ⟨v', w', hrun, h2, h3, _, h5⟩ := run_append_own_at (P := P) w base t ty e i z 1 bytes ht hi hz hsize hby hzs (by omega) v n xs hown ⟨b, o, none⟩ m c ys (by rw [hs.len]; omega)
      (fun j u hu => Src.cells hs j u hu) h1 h63 hbytes hbase
    exact ⟨v', w', hrun, h2, h3, h5⟩

theorem wpList_want {w : World} {ops : Array Oper} {rest : List Oper} {o : Oper} {a : Act} {Q : Exit → Act → World → Prop} (hw : Region.wanted o (yielded ops a.tmps) = true)
    (h : ∀ K : Act → World → Prop, (∀ a w, wpList P ops Q rest a w → K a w) → o.wp P a w K Q) : wpList P ops Q (o :: rest) a w :=
  wpList_step fun K hK => by rw [if_pos hw]; exact h K hK
/-- The same, at the operation. -/
theorem wpList_app {ops : Array Oper} {rest : List Oper} {o : Oper} {a : Act} {Q : Exit → Act → World → Prop} (hgd : Region.wanted o (yielded ops a.tmps) = true) (s x : Operand) (t : TypeId)
    (ho : o.op = .call { callee := .builtin .append, args := #[s, x], argTypes := #[t, t] })
    (base : Nat) (e : TypeId) (i : TypeInfo) (z : Value) (bytes : Nat) (ht : P.underlying t = some (.slice e)) (hi : P.info? e = some i) (hz : i.zero = some z)
    (hsize : i.size = 1) (hby : i.bytes = bytes) (hzs : z.cells.size = 1)
    (v : Value) (n : Nat) (xs : List Value) (hv : a.eval s = v) (hown : w.ownsRow base e 1 v n xs)
    (S : Nat → Prop) (A : Option Addr) (m c : Nat) (ys : List Value) (hx : a.eval x = .slice A m c) (hs : Src w S A m ys) (h1 : ∀ u ∈ ys, u.oneCell' = true)
    (h63 : n + m ≤ maxLen) (hbytes : (n + m) * bytes ≤ 140737488355328) (hbase : base ≤ w.heap.size)
    (h : ∀ v' w', w'.ownsRow base e 1 v' (n + m) (xs ++ ys) → w.grownBy w' v.ownBlock → (v'.ownBlock = v.ownBlock ∨ v'.ownBlock = some w.heap.size) → wpList P ops Q rest (a.put o.dst v') w') :
    wpList P ops Q (o :: rest) a w := by
  refine wpList_want hgd fun K hK => ?_
  obtain ⟨v', w', hrun, h2, h3, h4⟩ := run_app (P := P) w base t o.type e i z bytes ht hi hz hsize hby hzs v n xs hown S A m c ys hs h1 h63 hbytes hbase
  unfold Oper.wp execOp
  simp only [ho, resolve, invoke, builtin, Sem.run_bind, Sem.run_pure, Result.andThen_ok, List.map_toArray, List.map_cons, List.map_nil, hv, hx, hrun]
  exact hK _ _ (h v' w' h2 h3 h4)
end

/-- The one cell of a new block as a source. -/
theorem Src.lit1 (w : World) (u : Value) (e : TypeId) : Src (w.alloc (.cells #[u] e)) (· < w.heap.size + 1) (some ⟨w.heap.size, 0, none⟩) 1 [u] := by
  refine ⟨rfl, fun _ => ⟨w.heap.size, 0, rfl, by omega, fun i hi => ?_⟩⟩
  obtain rfl : i = 0 := by omega
  rw [cell_of_row _ w.heap.size (0 + 0) #[u] e (0, 0) (heap_alloc_new w _)]
  rfl

theorem grownBy_trans {a b c : World} {row : Option Nat} (h : a.grownBy b row) (k : b.grownBy c row) : a.grownBy c row :=
  ⟨k.os.trans h.os, k.tape.trans h.tape, k.output.trans h.output, Nat.le_trans h.size k.size,
    fun i hi hne => (k.block i (Nat.lt_of_lt_of_le hi h.size) hne).trans (h.block i hi hne)⟩
theorem grownBy_of_below {a w : World} (h : Below a.heap.size a w) (row : Option Nat) : a.grownBy w row := ⟨h.os, h.tape, h.output, h.size, fun i hi _ => h.block i hi⟩
theorem below_of_grownBy {a w : World} (h : a.grownBy w none) : Below a.heap.size a w := ⟨h.os, h.tape, h.output, h.size, fun i hi => h.block i hi (by simp)⟩
theorem grownBy_drewN {a w : World} {row : Option Nat} (h : a.grownBy w row) (n : Nat) : a.grownBy (w.drewN n) row := ⟨h.os, h.tape, h.output, h.size, h.block⟩
theorem below_drewN' {B : Nat} {a w : World} (h : Below B a w) (n : Nat) : Below B a (w.drewN n) := ⟨h.os, h.tape, h.output, h.size, h.block⟩

/-- The length of an owned row of bytes is the list's. -/
theorem own_as {w : World} {B : Nat} {e : TypeId} {v : Value} {n : Nat} {xs : List Value} (h : w.ownsRow B e 1 v n xs) (L : List UInt8) (hx : xs = bcs L) : w.ownsRow B e 1 v L.length (bcs L) := by
  subst hx
  have := h.1
  rw [bcs_len] at this
  obtain rfl : n = L.length := by omega
  exact h

/-- A fresh slice of bytes (element type e): a row of the call's own, everything older is as it was. -/
def Fresh (e : TypeId) (w w' : World) (v : Value) (l : List UInt8) : Prop :=
  w'.ownsRow w.heap.size e 1 v l.length (bcs l) ∧ Below w.heap.size w w'

theorem Fresh.shape {e : TypeId} {w w' : World} {v : Value} {l : List UInt8} (h : Fresh e w w' v l) : ∃ A c, v = .slice A l.length c ∧ l.length ≤ c ∧ c ≤ maxLen ∧ Src w' (fun g => w.heap.size ≤ g ∧ g < w'.heap.size) A l.length (bcs l) := by
  rcases h.1.2 with ⟨rfl, h0⟩ | ⟨g, cap, cur, rfl, hb, hg, hnc, hcm, hcs, ht⟩
  · have hl : l = [] := List.eq_nil_of_length_eq_zero h0
    subst hl
    exact ⟨none, 0, rfl, Nat.le_refl _, by simp [maxLen], Src.nil_ _ _ _⟩
  · exact ⟨_, cap, rfl, hnc, hcm, Src.own h.1 fun g a b => ⟨a, b⟩⟩

end Go.Proofs.Ytphalfpmgbmcaaa
