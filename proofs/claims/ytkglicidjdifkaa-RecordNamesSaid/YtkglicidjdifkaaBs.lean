/- General words for the walks of a seat: sources, appends, arrays as rows, regions whose order is drawn. No statement is proved here. -/
import Derived.BigQuiet
import Derived.Deep.DeepCutAuto
import Derived.Deep.Draws
import Derived.DeepKeys
import Derived.IntWalk
import Derived.Laws.BitsAllLaws
import Derived.Laws.Externs
import Derived.Lib.Hide
import Derived.Maps.AppendAt
import Derived.OrdersHeld
import Derived.RegionTactic
import Derived.StillTailTactics
import Derived.WalkKit
import Derived.WalkLawsBesides
import Derived.WalkSpells
namespace Go.Proofs.Ytkglicidjdifkaa
open Go.RowKit
set_option linter.unusedVariables false
set_option linter.unusedSimpArgs false


/-- One byte as a cell. -/
def bc (b : UInt8) : Value := .int .u8 (b.toNat : Int)
/-- Bytes as cells. -/
def bcs (l : List UInt8) : List Value := l.map bc

theorem bcs_len (l : List UInt8) : (bcs l).length = l.length := List.length_map ..
theorem bcs_one (l : List UInt8) : ∀ u ∈ bcs l, u.oneCell' = true := by
  intro u hu
  obtain ⟨b, _, rfl⟩ := List.mem_map.1 hu
  rfl
theorem bcs_append (a b : List UInt8) : bcs (a ++ b) = bcs a ++ bcs b := List.map_append ..
theorem bcs_snoc (l : List UInt8) (b : UInt8) : bcs l ++ [.int .u8 (b.toNat : Int)] = bcs (l ++ [b]) := by rw [bcs_append]; rfl
theorem bcs_get (l : List UInt8) (i : Nat) : (bcs l)[i]? = l[i]?.map bc := List.getElem?_map ..

/-- The slice value with address A and n elements reads as xs, in a block that S allows. -/
structure Src (w : World) (S : Nat → Prop) (A : Option Addr) (n : Nat) (xs : List Value) : Prop where
  len : xs.length = n
  lies : 0 < n → ∃ b o, A = some ⟨b, o, none⟩ ∧ S b ∧ ∀ i, i < n → w.cell? ⟨b, o + i, none⟩ = xs[i]?

section
variable {w w' : World} {S S' : Nat → Prop} {A : Option Addr} {n : Nat} {xs : List Value}
theorem Src.nil_ (w : World) (S : Nat → Prop) (A : Option Addr) : Src w S A 0 [] := ⟨rfl, fun h => absurd h (by omega)⟩
theorem Src.keep (h : Src w S A n xs) (hk : ∀ b o, S b → w'.cell? ⟨b, o, none⟩ = w.cell? ⟨b, o, none⟩) (hS : ∀ b, S b → S' b) : Src w' S' A n xs :=
  ⟨h.len, fun hn => by
    obtain ⟨b, o, e, hb, hc⟩ := h.lies hn
    exact ⟨b, o, e, hS b hb, fun i hi => (hk b _ hb).trans (hc i hi)⟩⟩
theorem Src.weak (h : Src w S A n xs) (hS : ∀ b, S b → S' b) : Src w S' A n xs := h.keep (fun _ _ _ => rfl) hS
theorem Src.below {B : Nat} (h : Src w (· < B) A n xs) (hb : Below B w w') (hS : ∀ b, b < B → S' b) : Src w' S' A n xs :=
  h.keep (fun b o hlt => hb.cell (p := ⟨b, o, none⟩) hlt) hS
/-- Everything but one row is as it was. -/
theorem Src.grown {row : Option Nat} (h : Src w S A n xs) (hg : w.grownBy w' row) (hS : ∀ b, S b → b < w.heap.size ∧ some b ≠ row) (hS' : ∀ b, S b → S' b) : Src w' S' A n xs :=
  h.keep (fun b o hb => World.cell?_of_block (a := ⟨b, o, none⟩) (hg.block b (hS b hb).1 (hS b hb).2)) hS'
theorem Src.drewN (h : Src w S A n xs) (k : Nat) : Src (w.drewN k) S A n xs := ⟨h.len, h.lies⟩
theorem Src.alloc (h : Src w S A n xs) (hS : ∀ b, S b → b < w.heap.size) (o : Obj) : Src (w.alloc o) S A n xs :=
  h.keep (fun b j hb => World.cell?_alloc_lt w o ⟨b, j, none⟩ (hS b hb)) fun _ hb => hb
theorem Src.cells {b o : Nat} (h : Src w S (some ⟨b, o, none⟩) n xs) (j : Nat) (u : Value) (hu : xs[j]? = some u) : w.cell? ((⟨b, o, none⟩ : Addr).add j) = some u := by
  have hj : j < n := by have := (List.getElem?_eq_some_iff.1 hu).1; have := h.len; omega
  obtain ⟨b', o', e, _, hc⟩ := h.lies (by omega)
  injection e with e
  injection e with e1 e2
  subst e1; subst e2
  have := hc j hj
  rw [hu] at this
  unfold Addr.add
  split
  · rename_i h0; subst h0; simpa using this
  · exact this
/-- A source of the call's own. -/
theorem Src.own {base : Nat} {e : TypeId} {c : Nat} (h : w.ownsRow base e 1 (.slice A n c) n xs) (hS : ∀ g, base ≤ g → g < w.heap.size → S g) : Src w S A n xs := by
  refine ⟨by have := h.1; omega, fun hn => ?_⟩
  rcases h.2 with ⟨_, h0⟩ | ⟨g, cap, cur, hv, hb, hg, hnc, hcm, hcs, ht⟩
  · omega
  · injection hv with hv1 hv2
    refine ⟨g, 0, hv1, hS g hb (Array.getElem?_eq_some_iff.1 hg).1, fun i hi => ?_⟩
    rw [Nat.zero_add, cell_of_row w g i cur e (0, 0) hg, ← ht, List.getElem?_take]
    rw [if_pos (by omega)]
    simp
/-- Cut in front. -/
theorem Src.drop_ {c : Nat} (h : Src w S A n xs) (k : Nat) (hk : k ≤ n) (hc : n ≤ c) : Src w S (if c = k then A else A.map (·.add k)) (n - k) (xs.drop k) := by
  refine ⟨by rw [List.length_drop, h.len], fun hn => ?_⟩
  obtain ⟨b, o, rfl, hb, hcell⟩ := h.lies (by omega)
  refine ⟨b, o + k, ?_, hb, fun i hi => ?_⟩
  · rw [if_neg (by omega)]
    by_cases h0 : k = 0 <;> simp [Addr.add, h0]
  · rw [List.getElem?_drop, ← hcell (k + i) (by omega), Nat.add_assoc]
theorem Src.take_ (h : Src w S A n xs) (k : Nat) (hk : k ≤ n) : Src w S A k (xs.take k) := by
  refine ⟨by rw [List.length_take, h.len]; omega, fun hn => ?_⟩
  obtain ⟨b, o, e, hb, hcell⟩ := h.lies (by omega)
  exact ⟨b, o, e, hb, fun i hi => by rw [List.getElem?_take, if_pos hi]; exact hcell i (by omega)⟩
end

section
variable {P : Program} (w : World)
/-- append from any source, onto a row of the call's own. -/
theorem run_app (base : Nat) (t ty e : TypeId) (i : TypeInfo) (z : Value) (bytes : Nat) (ht : P.underlying t = some (.slice e)) (hi : P.info? e = some i) (hz : i.zero = some z)
    (hsize : i.size = 1) (hby : i.bytes = bytes) (hzs : z.cells.size = 1)
    (v : Value) (n : Nat) (xs : List Value) (hown : w.ownsRow base e 1 v n xs)
    (S : Nat → Prop) (A : Option Addr) (m c : Nat) (ys : List Value) (hs : Src w S A m ys) (h1 : ∀ u ∈ ys, u.oneCell' = true)
    (h63 : n + m ≤ maxLen) (hbytes : (n + m) * bytes ≤ 140737488355328) (hbase : base ≤ w.heap.size) :
    ∃ v' w', (Builtin.append_ #[t, t] ty #[v, .slice A m c]).run P w = .ok v' w' ∧ w'.ownsRow base e 1 v' (n + m) (xs ++ ys) ∧ w.grownBy w' v.ownBlock ∧
      (v'.ownBlock = v.ownBlock ∨ v'.ownBlock = some w.heap.size) := by
  rcases Nat.eq_zero_or_pos m with h0 | h0
  · subst h0
    have hy : ys = [] := List.eq_nil_of_length_eq_zero hs.len
    subst hy
    rcases A with _ | ad
    · refine ⟨v, w, ?_, by simpa using hown, World.grownBy.refl w _, .inl rfl⟩
      rcases hown.2 with ⟨rfl, rfl⟩ | ⟨g, cap, cur, rfl, _, _, hnc, _⟩
      · simp [Builtin.append_, run_underlying ht, sizeOf, typeInfo, hi, Builtin.lenOf, Builtin.firstCells]
      · simp [Builtin.append_, run_underlying ht, sizeOf, typeInfo, hi, Builtin.lenOf, Builtin.firstCells, hnc, storeCells]
    · obtain ⟨v', w', hrun, h2, h3, _, h5⟩ := run_append_own_at (P := P) w base t ty e i z 1 bytes ht hi hz hsize hby hzs (by omega) v n xs hown ad 0 c [] (by simp) (by simp) (by simp) h63 hbytes hbase
      exact ⟨v', w', hrun, h2, h3, h5⟩
  · obtain ⟨b, o, rfl, _, _⟩ := hs.lies h0
    obtain ⟨v', w', hrun, h2, h3, _, h5⟩ := run_append_own_at (P := P) w base t ty e i z 1 bytes ht hi hz hsize hby hzs (by omega) v n xs hown ⟨b, o, none⟩ m c ys (by rw [hs.len]; omega)
      (fun j u hu => Src.cells hs j u hu) h1 h63 hbytes hbase
    exact ⟨v', w', hrun, h2, h3, h5⟩

theorem wpList_want {w : World} {ops : Array Oper} {rest : List Oper} {o : Oper} {a : Act} {Q : Exit → Act → World → Prop} (hw : Region.wanted o (yielded ops a.tmps) = true)
    (h : ∀ K : Act → World → Prop, (∀ a w, wpList P ops Q rest a w → K a w) → o.wp P a w K Q) : wpList P ops Q (o :: rest) a w :=
  wpList_step fun K hK => by rw [if_pos hw]; exact h K hK
/-- The same, at the operation. -/
theorem wpList_app {ops : Array Oper} {rest : List Oper} {o : Oper} {a : Act} {Q : Exit → Act → World → Prop} (hgd : Region.wanted o (yielded ops a.tmps) = true) (s x : Operand) (t : TypeId)
    (ho : o.op = .call { callee := .builtin .append, args := #[s, x], argTypes := #[t, t] })
    (base : Nat) (e : TypeId) (i : TypeInfo) (z : Value) (bytes : Nat) (ht : P.underlying t = some (.slice e)) (hi : P.info? e = some i) (hz : i.zero = some z)
    (hsize : i.size = 1) (hby : i.bytes = bytes) (hzs : z.cells.size = 1)
    (v : Value) (n : Nat) (xs : List Value) (hv : a.eval s = v) (hown : w.ownsRow base e 1 v n xs)
    (S : Nat → Prop) (A : Option Addr) (m c : Nat) (ys : List Value) (hx : a.eval x = .slice A m c) (hs : Src w S A m ys) (h1 : ∀ u ∈ ys, u.oneCell' = true)
    (h63 : n + m ≤ maxLen) (hbytes : (n + m) * bytes ≤ 140737488355328) (hbase : base ≤ w.heap.size)
    (h : ∀ v' w', w'.ownsRow base e 1 v' (n + m) (xs ++ ys) → w.grownBy w' v.ownBlock → (v'.ownBlock = v.ownBlock ∨ v'.ownBlock = some w.heap.size) → wpList P ops Q rest (a.put o.dst v') w') :
    wpList P ops Q (o :: rest) a w := by
  refine wpList_want hgd fun K hK => ?_
  obtain ⟨v', w', hrun, h2, h3, h4⟩ := run_app (P := P) w base t o.type e i z bytes ht hi hz hsize hby hzs v n xs hown S A m c ys hs h1 h63 hbytes hbase
  unfold Oper.wp execOp
  simp only [ho, resolve, invoke, builtin, Sem.run_bind, Sem.run_pure, Result.andThen_ok, List.map_toArray, List.map_cons, List.map_nil, hv, hx, hrun]
  exact hK _ _ (h v' w' h2 h3 h4)
end

/-- The one cell of a new block as a source. -/
theorem Src.lit1 (w : World) (u : Value) (e : TypeId) : Src (w.alloc (.cells #[u] e)) (· < w.heap.size + 1) (some ⟨w.heap.size, 0, none⟩) 1 [u] := by
  refine ⟨rfl, fun _ => ⟨w.heap.size, 0, rfl, by omega, fun i hi => ?_⟩⟩
  obtain rfl : i = 0 := by omega
  rw [cell_of_row _ w.heap.size (0 + 0) #[u] e (0, 0) (heap_alloc_new w _)]
  rfl

theorem grownBy_trans {a b c : World} {row : Option Nat} (h : a.grownBy b row) (k : b.grownBy c row) : a.grownBy c row :=
  ⟨k.os.trans h.os, k.tape.trans h.tape, k.output.trans h.output, Nat.le_trans h.size k.size,
    fun i hi hne => (k.block i (Nat.lt_of_lt_of_le hi h.size) hne).trans (h.block i hi hne)⟩
theorem grownBy_of_below {a w : World} (h : Below a.heap.size a w) (row : Option Nat) : a.grownBy w row := ⟨h.os, h.tape, h.output, h.size, fun i hi _ => h.block i hi⟩
theorem below_of_grownBy {a w : World} (h : a.grownBy w none) : Below a.heap.size a w := ⟨h.os, h.tape, h.output, h.size, fun i hi => h.block i hi (by simp)⟩
theorem grownBy_drewN {a w : World} {row : Option Nat} (h : a.grownBy w row) (n : Nat) : a.grownBy (w.drewN n) row := ⟨h.os, h.tape, h.output, h.size, h.block⟩
theorem below_drewN' {B : Nat} {a w : World} (h : Below B a w) (n : Nat) : Below B a (w.drewN n) := ⟨h.os, h.tape, h.output, h.size, h.block⟩

/-- The length of an owned row of bytes is the list's. -/
theorem own_as {w : World} {B : Nat} {e : TypeId} {v : Value} {n : Nat} {xs : List Value} (h : w.ownsRow B e 1 v n xs) (L : List UInt8) (hx : xs = bcs L) : w.ownsRow B e 1 v L.length (bcs L) := by
  subst hx
  have := h.1
  rw [bcs_len] at this
  obtain rfl : n = L.length := by omega
  exact h

/-- A fresh slice of bytes (element type e): a row of the call's own, everything older is as it was. -/
def Fresh (e : TypeId) (w w' : World) (v : Value) (l : List UInt8) : Prop :=
  w'.ownsRow w.heap.size e 1 v l.length (bcs l) ∧ Below w.heap.size w w'

theorem Fresh.shape {e : TypeId} {w w' : World} {v : Value} {l : List UInt8} (h : Fresh e w w' v l) : ∃ A c, v = .slice A l.length c ∧ l.length ≤ c ∧ c ≤ maxLen ∧ Src w' (fun g => w.heap.size ≤ g ∧ g < w'.heap.size) A l.length (bcs l) := by
  rcases h.1.2 with ⟨rfl, h0⟩ | ⟨g, cap, cur, rfl, hb, hg, hnc, hcm, hcs, ht⟩
  · have hl : l = [] := List.eq_nil_of_length_eq_zero h0
    subst hl
    exact ⟨none, 0, rfl, Nat.le_refl _, by simp [maxLen], Src.nil_ _ _ _⟩
  · exact ⟨_, cap, rfl, hnc, hcm, Src.own h.1 fun g a b => ⟨a, b⟩⟩



/-- So many zero bytes. -/
def zarr (n : Nat) : Array Value := Array.replicate n (.int .u8 0)
theorem zarr_bcs (n : Nat) : (zarr n).toList = bcs (List.replicate n 0) := by simp [zarr, bcs, bc]

section
variable {P : Program} {ops : Array Oper} {rest : List Oper} {o : Oper} {a : Act} {w : World} {Q : Exit → Act → World → Prop}

theorem setRow_grown (w : World) (g : Nat) (cs : Array Value) : w.grownBy (w.setRow g cs) (some g) := by
  refine ⟨rfl, rfl, rfl, by simp, fun k _ hne => ?_⟩
  have : k ≠ g := fun e => hne (by rw [e])
  simp only [World.setRow, Array.getElem?_modify]
  rw [if_neg (by omega)]

/-- A variable of an array type is made. -/
theorem wpList_alloc_row (hgd : Region.wanted o (yielded ops a.tmps) = true) (elem : TypeId) (ho : o.op = .alloc elem) (z : Value) (hz : ∀ w, (zeroValue elem).run P w = .ok z w)
    (h : ∀ w', w'.heap[w.heap.size]? = some (.cells z.cells elem (0, 0)) → w'.heap.size = w.heap.size + 1 → w.grownBy w' none → wpList P ops Q rest (a.put o.dst (.pointer (some ⟨w.heap.size, 0, none⟩))) w') :
    wpList P ops Q (o :: rest) a w := by
  refine wpList_want hgd fun K hK => ?_
  have hrun : (Instr.alloc elem true (.tuple #[])).run P w = .ok (.pointer (some ⟨w.heap.size, 0, none⟩)) (w.alloc (.cells z.cells elem)) := by
    simp [Instr.alloc, hz, newVar, newRow]
  unfold Oper.wp execOp
  simp only [ho, Sem.run_bind, Sem.run_pure, Result.andThen_ok, hrun]
  exact hK _ _ (h _ (heap_alloc_new w _) (by simp) (World.grownBy_alloc w _ none))

/-- A whole array is stored into a row. -/
theorem wpList_store_row (hgd : Region.wanted o (yielded ops a.tmps) = true) (ty : TypeId) (p x : Operand) (ho : o.op = .store ty p x) (g off : Nat) (hp : a.eval p = .pointer (some ⟨g, off, none⟩)) (cs : Array Value) (hx : a.eval x = .agg cs)
    (t : TypeId) (cur : Array Value) (hg : w.heap[g]? = some (.cells cur t (0, 0))) (hi : (P.info? ty).map (·.size) = some cs.size) (hfit : off + cs.size ≤ cur.size) (h1 : ∀ u ∈ cs.toList, u.oneCell' = true)
    (h : ∀ w', w'.heap[g]? = some (.cells (cur.toList.take off ++ cs.toList ++ cur.toList.drop (off + cs.size)).toArray t (0, 0)) → w.grownBy w' (some g) → w'.heap.size = w.heap.size → wpList P ops Q rest (a.put o.dst undef) w') :
    wpList P ops Q (o :: rest) a w := by
  refine wpList_want hgd fun K hK => ?_
  cases hq : P.info? ty with
  | none => simp [hq] at hi
  | some i =>
    have hs : i.size = cs.size := by simpa [hq] using hi
    have hst := run_storeCells_at P g off t cs.toList 0 cur w hg (by simpa using hfit) h1
    simp only [Nat.add_zero, Array.length_toList] at hst
    have hrun : (Instr.storeAt ty (.pointer (some ⟨g, off, none⟩)) (.agg cs)).run P w = .ok () (w.setRow g (cur.toList.take off ++ cs.toList ++ cur.toList.drop (off + cs.size)).toArray) := by
      simp [Instr.storeAt, Instr.sureAddr, storeVar, sizeOf, typeInfo, hq, hs, Value.cells, hst]
    unfold Oper.wp execOp
    simp only [ho, hp, hx, Sem.run_bind, Sem.run_pure, Result.andThen_ok, hrun]
    exact hK _ _ (h _ (setRow_heap w g cur _ t _ hg) (setRow_grown w g _) (by simp))

/-- A whole array is stored over a whole row. -/
theorem wpList_store_all (hgd : Region.wanted o (yielded ops a.tmps) = true) (ty : TypeId) (p x : Operand) (ho : o.op = .store ty p x) (g : Nat) (hp : a.eval p = .pointer (some ⟨g, 0, none⟩)) (cs : Array Value) (hx : a.eval x = .agg cs)
    (t : TypeId) (cur : Array Value) (hg : w.heap[g]? = some (.cells cur t (0, 0))) (hi : (P.info? ty).map (·.size) = some cs.size) (hfit : cs.size = cur.size) (h1 : ∀ u ∈ cs.toList, u.oneCell' = true)
    (h : ∀ w', w'.heap[g]? = some (.cells cs t (0, 0)) → w.grownBy w' (some g) → w'.heap.size = w.heap.size → wpList P ops Q rest (a.put o.dst undef) w') :
    wpList P ops Q (o :: rest) a w := by
  refine wpList_store_row hgd ty p x ho g 0 hp cs hx t cur hg hi (by omega) h1 fun w' hh hg hs => h w' ?_ hg hs
  rw [hh]
  simp [hfit, List.drop_of_length_le]

/-- A whole array is loaded, wherever it lies. -/
theorem wpList_load_arr (hgd : Region.wanted o (yielded ops a.tmps) = true) (ty : TypeId) (x : Operand) (ho : o.op = .load ty x) (b off : Nat) (hx : a.eval x = .pointer (some ⟨b, off, none⟩))
    (xs : List Value) (hc : ∀ i u, xs[i]? = some u → w.cell? ⟨b, off + i, none⟩ = some u) (d : TypeDesc) (hu : P.underlying ty = some d) (hd : (match d with | .struct _ | .array _ _ => true | _ => false) = true)
    (hi : (P.info? ty).map (·.size) = some xs.length) (h : wpList P ops Q rest (a.put o.dst (.agg xs.toArray)) w) : wpList P ops Q (o :: rest) a w := by
  refine wpList_want hgd fun K hK => ?_
  cases hq : P.info? ty with
  | none => simp [hq] at hi
  | some i =>
    have hs : i.size = xs.length := by simpa [hq] using hi
    have hl : (loadCells ⟨b, off, none⟩ xs.length).run P w = .ok xs.toArray w :=
      run_loadCells_list (P := P) w ⟨b, off, none⟩ xs (fun j v hv => by
        have hadd : (⟨b, off, none⟩ : Addr).add j = ⟨b, off + j, none⟩ := by unfold Addr.add; split <;> simp_all
        rw [hadd]
        exact hc j v hv)
    have hagg : (isAgg ty).run P w = .ok true w := by
      unfold isAgg
      rw [Sem.run_bind, run_underlying hu w]
      cases d <;> simp_all
    have hrun : (Instr.loadAt ty (.pointer (some ⟨b, off, none⟩))).run P w = .ok (.agg xs.toArray) w := by
      simp [Instr.loadAt, Instr.sureAddr, loadVar, Sem.run_bind, hagg, sizeOf, typeInfo, hq, hs, hl]
    unfold Oper.wp execOp
    simp only [ho, hx, Sem.run_bind, Sem.run_pure, Result.andThen_ok, hrun]
    exact hK _ _ h
end
theorem ret_int {k : IntKind} {a b : Int} (h : a = b) : Ending.returned (.int k a) = .returned (.int k b) := by rw [h]

theorem wrap_nat (x : Nat) : IntKind.u64.wrap (x : Int) = ((x % 18446744073709551616 : Nat) : Int) := by rw [IntKind.wrap_u64]; omega
theorem shl_nat (x k : Nat) : IntKind.u64.wrap ((x : Int) * 2 ^ k) = ((x * 2 ^ k % 18446744073709551616 : Nat) : Int) := by
  rw [← wrap_nat]; congr 1
theorem shr_nat (x k : Nat) : (x : Int) / 2 ^ k = ((x / 2 ^ k : Nat) : Int) := by simp

/-- Numbers as cells. -/
def uc (n : Nat) : Value := .int .u64 (n : Int)
def ucs (l : List Nat) : List Value := l.map uc
theorem ucs_len (l : List Nat) : (ucs l).length = l.length := List.length_map ..
theorem ucs_one (l : List Nat) : ∀ u ∈ ucs l, u.oneCell' = true := by
  intro u hu
  obtain ⟨b, _, rfl⟩ := List.mem_map.1 hu
  rfl
theorem ucs_append (a b : List Nat) : ucs (a ++ b) = ucs a ++ ucs b := List.map_append ..
theorem ucs_get (l : List Nat) (i : Nat) : (ucs l)[i]? = l[i]?.map uc := List.getElem?_map ..

/-- What comes back is a value, and everything older is as it was. -/
def Gives (v : Value) (w : World) (e : Ending) (w' : World) : Prop := e = .returned v ∧ Below w.heap.size w w'

theorem wpList_exec {P : Program} {ops : Array Oper} {rest : List Oper} {o : Oper} {a : Act} {w w' : World} {Q : Exit → Act → World → Prop} (hgd : Region.wanted o (yielded ops a.tmps) = true) (v : Value) (hrun : (execOp a.eval o).run P w = .ok (.value v) w')
    (h : wpList P ops Q rest (a.put o.dst v) w') : wpList P ops Q (o :: rest) a w := by
  refine wpList_want hgd fun K hK => ?_
  unfold Oper.wp
  rw [hrun]
  exact hK _ _ h



/-- From w to w' everything old is as it was, but for the blocks of G. -/
structure Keeps (G : Nat → Prop) (w w' : World) : Prop where
  os : w'.os = w.os
  tape : w'.tape = w.tape
  output : w'.output = w.output
  size : w.heap.size ≤ w'.heap.size
  block : ∀ k, k < w.heap.size → ¬ G k → w'.heap[k]? = w.heap[k]?
theorem Keeps.refl (G : Nat → Prop) (w : World) : Keeps G w w := ⟨rfl, rfl, rfl, Nat.le_refl _, fun _ _ _ => rfl⟩
theorem Keeps.trans {G : Nat → Prop} {a b c : World} (h : Keeps G a b) (k : Keeps G b c) : Keeps G a c :=
  ⟨k.os.trans h.os, k.tape.trans h.tape, k.output.trans h.output, Nat.le_trans h.size k.size, fun i hi hg => (k.block i (Nat.lt_of_lt_of_le hi h.size) hg).trans (h.block i hi hg)⟩
theorem Keeps.of_below {G : Nat → Prop} {w w' : World} (h : Below w.heap.size w w') : Keeps G w w' := ⟨h.os, h.tape, h.output, h.size, fun k hk _ => h.block k hk⟩
theorem Keeps.of_grown {G : Nat → Prop} {w w' : World} {row : Option Nat} (h : w.grownBy w' row) (hg : ∀ r, row = some r → G r) : Keeps G w w' :=
  ⟨h.os, h.tape, h.output, h.size, fun k hk hn => h.block k hk (fun e => hn (hg k e.symm))⟩
theorem Keeps.drew (G : Nat → Prop) (w : World) : Keeps G w w.drew := ⟨rfl, rfl, rfl, Nat.le_refl _, fun _ _ _ => rfl⟩
theorem Keeps.drewN (G : Nat → Prop) (w : World) (n : Nat) : Keeps G w (w.drewN n) := ⟨rfl, rfl, rfl, Nat.le_refl _, fun _ _ _ => rfl⟩
theorem Keeps.below {G : Nat → Prop} {w w' : World} (h : Keeps G w w') {B : Nat} (hB : B ≤ w.heap.size) (hG : ∀ k, k < B → ¬ G k) : Below B w w' :=
  ⟨h.os, h.tape, h.output, h.size, fun k hk => h.block k (by omega) (hG k hk)⟩
theorem Keeps.cell {G : Nat → Prop} {w w' : World} (h : Keeps G w w') {b o : Nat} (hb : b < w.heap.size) (hg : ¬ G b) : w'.cell? ⟨b, o, none⟩ = w.cell? ⟨b, o, none⟩ :=
  World.cell?_of_block (a := ⟨b, o, none⟩) (h.block b hb hg)
theorem Src.keeps {G S : Nat → Prop} {w w' : World} {A : Option Addr} {n : Nat} {xs : List Value} (h : Src w S A n xs) (hk : Keeps G w w') (hS : ∀ b, S b → b < w.heap.size ∧ ¬ G b) : Src w' S A n xs :=
  h.keep (fun b _ hb => hk.cell (hS b hb).1 (hS b hb).2) fun _ hb => hb

theorem Src.below' {S : Nat → Prop} {w w' : World} {A : Option Addr} {n B : Nat} {xs : List Value} (h : Src w S A n xs) (hb : Below B w w') (hS : ∀ b, S b → b < B) : Src w' S A n xs :=
  h.keep (fun b o hk => hb.cell (p := ⟨b, o, none⟩) (hS b hk)) fun _ hk => hk
theorem Src.take_b {S : Nat → Prop} {w : World} {A : Option Addr} {n : Nat} {l : List UInt8} (h : Src w S A n (bcs l)) (k : Nat) (hk : k ≤ n) : Src w S A k (bcs (l.take k)) := by
  have := h.take_ k hk
  unfold bcs at this ⊢
  rw [List.map_take]
  exact this

section
variable {P : Program} {ops : Array Oper} {Q : Exit → Act → World → Prop} {md : Region.Mode} {R : World → World → Prop}

/-- Whatever order is picked from here on; each operation leads from a world to one that R says. -/
def wpAnyR (P : Program) (md : Region.Mode) (ops : Array Oper) (Q : Exit → Act → World → Prop) (R : World → World → Prop) : Nat → Array Bool → Act → World → Prop
  | 0, listed, a, w => Region.ready md ops listed = [] ∧ Q .normal a w
  | fuel + 1, listed, a, w =>
    (Region.ready md ops listed = [] → Q .normal a w) ∧
    ∀ i ∈ Region.ready md ops listed, wpOp P ops Q i (fun a' w' => R w w' ∧ wpAnyR P md ops Q R fuel (listed.setIfInBounds i true) a' w') a w

theorem wpAny_of_R : ∀ (fuel : Nat) (listed : Array Bool) (a : Act) (w : World), wpAnyR P md ops Q R fuel listed a w → wpAny P md ops Q fuel listed a w
  | 0, _, _, _, h => h
  | fuel + 1, _, _, _, h => ⟨h.1, fun i hi => wpOp_mono (fun a' w' h' => wpAny_of_R fuel _ a' w' h'.2) (h.2 i hi)⟩

theorem YieldsIf.weak {S S' : World → Prop} {o : Oper} {v : Value} {a : Act} (h : YieldsIf P ops S o v a) (hS : ∀ w, S' w → S w) : YieldsIf P ops S' o v a :=
  h.imp (fun ⟨hw, hv⟩ => ⟨hw, fun w h' => hv w (hS w h')⟩) id

/-- An operation whose value is the same in every world that may come may be taken first. -/
theorem wpAnyR_first (hrefl : ∀ w, R w w) (htrans : ∀ a b c, R a b → R b c → R a c) {i : Nat} {oi : Oper} {v : Value} (hi : ops[i]? = some oi)
    (hsel : ∀ (j : Nat) (o : Oper) cs b, ops[j]? = some o → o.op ≠ .select cs b) (hQ : ∀ c a w, Q (.panic c) (a.put oi.dst v) w → Q (.panic c) a w) :
    ∀ (fuel : Nat) (listed : Array Bool) (a : Act) (w : World),
      (∀ j oj, ops[j]? = some oj → j ≠ i → listed.getD j true = false → (∀ e ∈ oj.after, Region.binds md e = true → e.on ≠ i) → oi.apart ops oj = true) →
      i ∈ Region.ready md ops listed → YieldsIf P ops (R w) oi v a →
      wpAnyR P md ops Q R fuel (listed.setIfInBounds i true) (a.put oi.dst v) w → wpAnyR P md ops Q R (fuel + 1) listed a w := by
  intro fuel
  induction fuel with
  | zero =>
    intro listed a w _ hr hy H
    refine ⟨fun h => (by rw [h] at hr; cases hr), fun j hj => ?_⟩
    by_cases hji : j = i
    · subst hji
      exact hy.wpOp hi (hrefl w) ⟨hrefl w, H⟩
    · have := ready_mono hj hji
      rw [H.1] at this
      cases this
  | succ fuel ih =>
    intro listed a w hfree hr hy H
    refine ⟨fun h => (by rw [h] at hr; cases hr), fun j hj => ?_⟩
    by_cases hji : j = i
    · subst hji
      exact hy.wpOp hi (hrefl w) ⟨hrefl w, H⟩
    · have h1 := H.2 j (ready_mono hj hji)
      obtain ⟨hjun, oj, hoj, hall⟩ := mem_ready.1 hj
      have hnot : ∀ e ∈ oj.after, Region.binds md e = true → e.on ≠ i := fun e he hb heq => by
        have h1 := hall e he hb
        have h0 := (mem_ready.1 hr).1
        rw [heq] at h1
        rcases Nat.lt_or_ge i listed.size with h' | h'
        · simp [h'] at h0 h1
          rw [h0] at h1
          cases h1
        · simp [Array.getElem?_eq_none h'] at h1
      have h2 := wpOp_putIf hoj (hfree j oj hoj hji hjun hnot) (fun cs b => hsel i oi cs b hi) (fun cs b => hsel j oj cs b hoj) hQ hy h1
      have hfree' : ∀ k ok, ops[k]? = some ok → k ≠ i → (listed.setIfInBounds j true).getD k true = false →
          (∀ e ∈ ok.after, Region.binds md e = true → e.on ≠ i) → oi.apart ops ok = true := fun k ok hk hki hun hno => by
        refine hfree k ok hk hki ?_ hno
        by_cases hjk : j = k
        · subst hjk
          exact hjun
        · rw [getD_set_ne true hjk] at hun
          exact hun
      refine wpOp_mono (fun a' w' h3 => ⟨h3.2.1, ih (listed.setIfInBounds j true) a' w' hfree' (ready_mono hr (Ne.symm hji))
        (YieldsIf.weak h3.1 (fun w'' hw'' => htrans _ _ _ h3.2.1 hw'')) ?_⟩) h2
      rw [Array.setIfInBounds_comm _ _ hji]
      exact h3.2.2

variable {G : Nat → Prop} {fuel : Nat} {listed : Array Bool} {a : Act} {w : World}

/-- Number i is taken first; its value is v. -/
theorem anyTake {i : Nat} {oi : Oper} {v : Value} (hi : ops[i]? = some oi) (hs : Region.noSelect ops = true) (hf : Region.free md ops listed i = true) (hr : (Region.ready md ops listed).contains i = true)
    (hQ : ∀ c a w, Q (.panic c) (a.put oi.dst v) w → Q (.panic c) a w) (hw : Region.wanted oi (yielded ops a.tmps) = true) (hv : ∀ w', Keeps G w w' → (execOp a.eval oi).run P w' = .ok (.value v) w')
    (h : wpAnyR P md ops Q (Keeps G) fuel (listed.setIfInBounds i true) (a.put oi.dst v) w) : wpAnyR P md ops Q (Keeps G) (fuel + 1) listed a w :=
  wpAnyR_first (Keeps.refl G) (fun _ _ _ => Keeps.trans) hi (Region.noSelect_spec hs) hQ fuel listed a w (Region.free_spec hi hf) (by simpa using hr) (.inl ⟨hw, hv⟩) h
theorem anyTakeE {i : Nat} {oi : Oper} (hi : ops[i]? = some oi) (hs : Region.noSelect ops = true) (hf : Region.free md ops listed i = true) (hr : (Region.ready md ops listed).contains i = true)
    (hQ : ∀ v c a w, Q (.panic c) (a.put oi.dst v) w → Q (.panic c) a w) (hw : Region.wanted oi (yielded ops a.tmps) = true)
    (h : ∃ v, (∀ w', Keeps G w w' → (execOp a.eval oi).run P w' = .ok (.value v) w') ∧ wpAnyR P md ops Q (Keeps G) fuel (listed.setIfInBounds i true) (a.put oi.dst v) w) : wpAnyR P md ops Q (Keeps G) (fuel + 1) listed a w := by
  obtain ⟨v, hv, h⟩ := h
  exact anyTake hi hs hf hr (hQ v) hw hv h
/-- Number i is not wanted: its guard says no. -/
theorem anySkip {i : Nat} {oi : Oper} (hi : ops[i]? = some oi) (hs : Region.noSelect ops = true) (hf : Region.free md ops listed i = true) (hr : (Region.ready md ops listed).contains i = true)
    (hQ : ∀ c a w, Q (.panic c) (a.put oi.dst undef) w → Q (.panic c) a w) (hw : Region.wanted oi (yielded ops a.tmps) = false)
    (h : wpAnyR P md ops Q (Keeps G) fuel (listed.setIfInBounds i true) (a.put oi.dst undef) w) : wpAnyR P md ops Q (Keeps G) (fuel + 1) listed a w :=
  wpAnyR_first (Keeps.refl G) (fun _ _ _ => Keeps.trans) hi (Region.noSelect_spec hs) hQ fuel listed a w (Region.free_spec hi hf) (by simpa using hr) (.inr ⟨hw, rfl⟩) h
/-- Number i alone may come, and is a call. -/
theorem anyCall {i : Nat} {oi : Oper} {f : FuncId} {args : Array Value} (hi : ops[i]? = some oi) (hr : Region.ready md ops listed = [i]) (hw : Region.wanted oi (yielded ops a.tmps) = true)
    (he : (execOp a.eval oi).run P w = .ok (.enter f args) w)
    (h : Calls P f args w fun e w' => ∃ v, e = .returned v ∧ Keeps G w w' ∧ wpAnyR P md ops Q (Keeps G) fuel (listed.setIfInBounds i true) (a.put oi.dst v) w') : wpAnyR P md ops Q (Keeps G) (fuel + 1) listed a w := by
  refine ⟨fun h0 => (by rw [hr] at h0; cases h0), fun j hj => ?_⟩
  rw [hr] at hj
  obtain rfl : j = i := by simpa using hj
  unfold wpOp
  simp only [hi, hw, if_true]
  refine .inl ?_
  unfold Oper.wp
  rw [he, Oper.upon_enter]
  refine h.mono fun e w' => ?_
  rintro ⟨v, rfl, hk, hx⟩
  exact ⟨hk, hx⟩
/-- Number i alone may come, and changes the world by itself. -/
theorem anyOp {i : Nat} {oi : Oper} (hi : ops[i]? = some oi) (hr : Region.ready md ops listed = [i]) (hw : Region.wanted oi (yielded ops a.tmps) = true)
    (h : oi.wp P a w (fun a' w' => Keeps G w w' ∧ wpAnyR P md ops Q (Keeps G) fuel (listed.setIfInBounds i true) a' w') Q) : wpAnyR P md ops Q (Keeps G) (fuel + 1) listed a w := by
  refine ⟨fun h0 => (by rw [hr] at h0; cases h0), fun j hj => ?_⟩
  rw [hr] at hj
  obtain rfl : j = i := by simpa using hj
  unfold wpOp
  simp only [hi, hw, if_true]
  exact .inl h
theorem anyDone (hr : Region.ready md ops listed = []) (h : Q .normal a w) : ∀ fuel, wpAnyR P md ops Q (Keeps G) fuel listed a w
  | 0 => ⟨hr, h⟩
  | _ + 1 => ⟨fun _ => h, by rw [hr]; simp⟩
/-- A conversion, by its own run. -/
theorem exec_convert {o : Oper} {s d : TypeId} {x : Operand} {v : Value} (ho : o.op = .convert s d x) (h : (convert s d (a.eval x)).run P w = .ok v w) : (execOp a.eval o).run P w = .ok (.value v) w := by
  unfold execOp
  simp [ho, h]
/-- append, as one operation. -/
theorem wp_app {o : Oper} {K : Act → World → Prop} (s x : Operand) (t : TypeId) (ho : o.op = .call { callee := .builtin .append, args := #[s, x], argTypes := #[t, t] })
    (base : Nat) (e : TypeId) (i : TypeInfo) (z : Value) (bytes : Nat) (ht : P.underlying t = some (.slice e)) (hi : P.info? e = some i) (hz : i.zero = some z)
    (hsize : i.size = 1) (hby : i.bytes = bytes) (hzs : z.cells.size = 1) (v : Value) (n : Nat) (xs : List Value) (hv : a.eval s = v) (hown : w.ownsRow base e 1 v n xs)
    (S : Nat → Prop) (A : Option Addr) (m c : Nat) (ys : List Value) (hx : a.eval x = .slice A m c) (hs : Src w S A m ys) (h1 : ∀ u ∈ ys, u.oneCell' = true)
    (h63 : n + m ≤ maxLen) (hbytes : (n + m) * bytes ≤ 140737488355328) (hbase : base ≤ w.heap.size)
    (h : ∀ v' w', w'.ownsRow base e 1 v' (n + m) (xs ++ ys) → w.grownBy w' v.ownBlock → K (a.put o.dst v') w') : o.wp P a w K Q := by
  obtain ⟨v', w', hrun, h2, h3, h4⟩ := run_app (P := P) w base t o.type e i z bytes ht hi hz hsize hby hzs v n xs hown S A m c ys hs h1 h63 hbytes hbase
  unfold Oper.wp execOp
  simp only [ho, resolve, invoke, builtin, Sem.run_bind, Sem.run_pure, Result.andThen_ok, List.map_toArray, List.map_cons, List.map_nil, hv, hx, hrun]
  exact h v' w' h2 h3
/-- A whole array loaded. -/
theorem exec_load {o : Oper} (ty : TypeId) (x : Operand) (ho : o.op = .load ty x) (b off : Nat) (hx : a.eval x = .pointer (some ⟨b, off, none⟩))
    (xs : List Value) (hc : ∀ i u, xs[i]? = some u → w.cell? ⟨b, off + i, none⟩ = some u) (d : TypeDesc) (hu : P.underlying ty = some d) (hd : (match d with | .struct _ | .array _ _ => true | _ => false) = true)
    (hi : (P.info? ty).map (·.size) = some xs.length) : (execOp a.eval o).run P w = .ok (.value (.agg xs.toArray)) w := by
  cases hq : P.info? ty with
  | none => simp [hq] at hi
  | some i =>
    have hs : i.size = xs.length := by simpa [hq] using hi
    have hl : (loadCells ⟨b, off, none⟩ xs.length).run P w = .ok xs.toArray w :=
      run_loadCells_list (P := P) w ⟨b, off, none⟩ xs (fun j v hv => by
        have hadd : (⟨b, off, none⟩ : Addr).add j = ⟨b, off + j, none⟩ := by unfold Addr.add; split <;> simp_all
        rw [hadd]
        exact hc j v hv)
    have hagg : (isAgg ty).run P w = .ok true w := by
      unfold isAgg
      rw [Sem.run_bind, run_underlying hu w]
      cases d <;> simp_all
    have hrun : (Instr.loadAt ty (.pointer (some ⟨b, off, none⟩))).run P w = .ok (.agg xs.toArray) w := by
      simp [Instr.loadAt, Instr.sureAddr, loadVar, Sem.run_bind, hagg, sizeOf, typeInfo, hq, hs, hl]
    unfold execOp
    simp only [ho, hx, Sem.run_bind, Sem.run_pure, Result.andThen_ok, hrun]
/-- The beginning. -/
theorem anyStart (G : Nat → Prop) {id : Nat} (hm : P.follows .mixedOrders = true) (h : wpAnyR P .any ops Q (Keeps G) ops.size (Array.replicate ops.size false) a w.drew) : (Code.region id ops true).wp P Q a w :=
  wp_region_any hm (wpAny_of_R _ _ _ _ h)
end
theorem below_alloc (w : World) (o : Obj) : Below w.heap.size w (w.alloc o) := (Below.refl _ w).alloc (Nat.le_refl _) _
section
variable {P : Program} {ops : Array Oper} {Q : Exit → Act → World → Prop} {md : Region.Mode} {R : World → World → Prop} {fuel : Nat} {listed : Array Bool} {a : Act} {w : World}
/-- Each that may come. -/
theorem anyEach (L : List Nat) (hr : Region.ready md ops listed = L) (hL : L ≠ [])
    (h : ∀ i ∈ L, wpOp P ops Q i (fun a' w' => R w w' ∧ wpAnyR P md ops Q R fuel (listed.setIfInBounds i true) a' w') a w) : wpAnyR P md ops Q R (fuel + 1) listed a w :=
  ⟨fun h0 => absurd (hr.symm.trans h0) hL, fun i hi => h i (by rw [← hr]; exact hi)⟩
theorem wpOp_call {i : Nat} {oi : Oper} {f : FuncId} {args : Array Value} {K : Act → World → Prop} (hi : ops[i]? = some oi) (hw : Region.wanted oi (yielded ops a.tmps) = true)
    (he : (execOp a.eval oi).run P w = .ok (.enter f args) w) (h : Calls P f args w fun e w' => ∃ v, e = .returned v ∧ K (a.put oi.dst v) w') : wpOp P ops Q i K a w := by
  unfold wpOp
  simp only [hi, hw, if_true]
  refine .inl ?_
  unfold Oper.wp
  rw [he, Oper.upon_enter]
  refine h.mono fun e w' => ?_
  rintro ⟨v, rfl, hx⟩
  exact hx
theorem wpOp_value {i : Nat} {oi : Oper} {v : Value} {w' : World} {K : Act → World → Prop} (hi : ops[i]? = some oi) (hw : Region.wanted oi (yielded ops a.tmps) = true)
    (he : (execOp a.eval oi).run P w = .ok (.value v) w') (h : K (a.put oi.dst v) w') : wpOp P ops Q i K a w := by
  unfold wpOp
  simp only [hi, hw, if_true]
  refine .inl ?_
  unfold Oper.wp
  rw [he]
  exact h
theorem exec_alloc {o : Oper} (elem : TypeId) (ho : o.op = .alloc elem) (z : Value) (hz : ∀ w, (zeroValue elem).run P w = .ok z w) (w : World) :
    (execOp a.eval o).run P w = .ok (.value (.pointer (some ⟨w.heap.size, 0, none⟩))) (w.alloc (.cells z.cells elem)) := by
  have hrun : (Instr.alloc elem true (.tuple #[])).run P w = .ok (.pointer (some ⟨w.heap.size, 0, none⟩)) (w.alloc (.cells z.cells elem)) := by
    simp [Instr.alloc, hz, newVar, newRow]
  unfold execOp
  simp only [ho, Sem.run_bind, Sem.run_pure, Result.andThen_ok, hrun]
/-- A whole array stored over a whole row. -/
theorem exec_store_all {o : Oper} (ty : TypeId) (p x : Operand) (ho : o.op = .store ty p x) (g : Nat) (hp : a.eval p = .pointer (some ⟨g, 0, none⟩)) (cs : Array Value) (hx : a.eval x = .agg cs)
    (t : TypeId) (cur : Array Value) (hg : w.heap[g]? = some (.cells cur t (0, 0))) (hi : (P.info? ty).map (·.size) = some cs.size) (hfit : cs.size = cur.size) (h1 : ∀ u ∈ cs.toList, u.oneCell' = true) :
    ∃ w', (execOp a.eval o).run P w = .ok .skip w' ∧ w'.heap[g]? = some (.cells cs t (0, 0)) ∧ w.grownBy w' (some g) ∧ w'.heap.size = w.heap.size := by
  cases hq : P.info? ty with
  | none => simp [hq] at hi
  | some i =>
    have hs : i.size = cs.size := by simpa [hq] using hi
    have hst := run_storeCells_at P g 0 t cs.toList 0 cur w hg (by simp; omega) h1
    simp only [Nat.add_zero, Array.length_toList] at hst
    have hrun : (Instr.storeAt ty (.pointer (some ⟨g, 0, none⟩)) (.agg cs)).run P w = .ok () (w.setRow g (cur.toList.take 0 ++ cs.toList ++ cur.toList.drop (0 + cs.size)).toArray) := by
      simp [Instr.storeAt, Instr.sureAddr, storeVar, sizeOf, typeInfo, hq, hs, Value.cells, hst]
    have he : (cur.toList.take 0 ++ cs.toList ++ cur.toList.drop (0 + cs.size)).toArray = cs := by
      simp [hfit, List.drop_of_length_le]
    rw [he] at hrun
    refine ⟨w.setRow g cs, ?_, setRow_heap w g cur _ t _ hg, setRow_grown w g _, by simp⟩
    unfold execOp
    simp only [ho, hp, hx, Sem.run_bind, Sem.run_pure, Result.andThen_ok, hrun]
end



section
variable {P : Program} {ops : Array Oper} {Q : Exit → Act → World → Prop} {md : Region.Mode} {W : Nat → Bool} {lo : Nat}

/-- Does number j wait for number i itself? -/
def waits (md : Region.Mode) (ops : Array Oper) (j i : Nat) : Bool :=
  match ops[j]? with
  | some oj => oj.after.toList.any fun e => Region.binds md e && (e.on == i)
  | none => false
theorem waits_not {j i : Nat} {oj : Oper} {listed : Array Bool} (hj : ops[j]? = some oj) (hw : waits md ops j i = true) (hr : j ∈ Region.ready md ops listed) (hi : i ∈ Region.ready md ops listed) : False := by
  obtain ⟨_, o', ho', hall⟩ := mem_ready.1 hr
  obtain rfl : oj = o' := Option.some.inj (hj.symm.trans ho')
  unfold waits at hw
  simp only [hj] at hw
  obtain ⟨e, he, hb⟩ := List.any_eq_true.1 hw
  simp only [Bool.and_eq_true, beq_iff_eq] at hb
  have h1 := hall e (by simpa using he) hb.1
  have h0 := (mem_ready.1 hi).1
  rw [hb.2] at h1
  rcases Nat.lt_or_ge i listed.size with h' | h'
  · simp [h'] at h0 h1
    rw [h0] at h1
    cases h1
  · simp [Array.getElem?_eq_none h'] at h1

/-- Whatever order is picked from here on; an operation outside W leaves all that is old as it was. -/
def wpAnyW (P : Program) (md : Region.Mode) (ops : Array Oper) (Q : Exit → Act → World → Prop) (W : Nat → Bool) (lo : Nat) : Nat → Array Bool → Act → World → Prop
  | 0, listed, a, w => Region.ready md ops listed = [] ∧ Q .normal a w
  | fuel + 1, listed, a, w =>
    (Region.ready md ops listed = [] → Q .normal a w) ∧
    ∀ i ∈ Region.ready md ops listed, wpOp P ops Q i (fun a' w' => (W i = false → Below lo w w') ∧ wpAnyW P md ops Q W lo fuel (listed.setIfInBounds i true) a' w') a w

theorem wpAny_of_W : ∀ (fuel : Nat) (listed : Array Bool) (a : Act) (w : World), wpAnyW P md ops Q W lo fuel listed a w → wpAny P md ops Q fuel listed a w
  | 0, _, _, _, h => h
  | fuel + 1, _, _, _, h => ⟨h.1, fun i hi => wpOp_mono (fun a' w' h' => wpAny_of_W fuel _ a' w' h'.2) (h.2 i hi)⟩

theorem wpAnyW_first {i : Nat} {oi : Oper} {v : Value} (hi : ops[i]? = some oi) (hWi : W i = false) (hW : ∀ j oj, ops[j]? = some oj → W j = true → waits md ops j i = true)
    (hsel : ∀ (j : Nat) (o : Oper) cs b, ops[j]? = some o → o.op ≠ .select cs b) (hQ : ∀ c a w, Q (.panic c) (a.put oi.dst v) w → Q (.panic c) a w) :
    ∀ (fuel : Nat) (listed : Array Bool) (a : Act) (w : World),
      (∀ j oj, ops[j]? = some oj → j ≠ i → listed.getD j true = false → (∀ e ∈ oj.after, Region.binds md e = true → e.on ≠ i) → oi.apart ops oj = true) →
      i ∈ Region.ready md ops listed → YieldsIf P ops (fun w' => Below lo w w') oi v a →
      wpAnyW P md ops Q W lo fuel (listed.setIfInBounds i true) (a.put oi.dst v) w → wpAnyW P md ops Q W lo (fuel + 1) listed a w := by
  intro fuel
  induction fuel with
  | zero =>
    intro listed a w _ hr hy H
    refine ⟨fun h => (by rw [h] at hr; cases hr), fun j hj => ?_⟩
    by_cases hji : j = i
    · subst hji
      exact hy.wpOp hi (Below.refl _ w) ⟨fun _ => Below.refl _ w, H⟩
    · have := ready_mono hj hji
      rw [H.1] at this
      cases this
  | succ fuel ih =>
    intro listed a w hfree hr hy H
    refine ⟨fun h => (by rw [h] at hr; cases hr), fun j hj => ?_⟩
    by_cases hji : j = i
    · subst hji
      exact hy.wpOp hi (Below.refl _ w) ⟨fun _ => Below.refl _ w, H⟩
    · have h1 := H.2 j (ready_mono hj hji)
      obtain ⟨hjun, oj, hoj, hall⟩ := mem_ready.1 hj
      have hWj : W j = false := by
        cases hw : W j with
        | false => rfl
        | true => exact absurd (waits_not hoj (hW j oj hoj hw) hj hr) id
      have hnot : ∀ e ∈ oj.after, Region.binds md e = true → e.on ≠ i := fun e he hb heq => by
        have h1 := hall e he hb
        have h0 := (mem_ready.1 hr).1
        rw [heq] at h1
        rcases Nat.lt_or_ge i listed.size with h' | h'
        · simp [h'] at h0 h1
          rw [h0] at h1
          cases h1
        · simp [Array.getElem?_eq_none h'] at h1
      have h2 := wpOp_putIf hoj (hfree j oj hoj hji hjun hnot) (fun cs b => hsel i oi cs b hi) (fun cs b => hsel j oj cs b hoj) hQ hy h1
      have hfree' : ∀ k ok, ops[k]? = some ok → k ≠ i → (listed.setIfInBounds j true).getD k true = false →
          (∀ e ∈ ok.after, Region.binds md e = true → e.on ≠ i) → oi.apart ops ok = true := fun k ok hk hki hun hno => by
        refine hfree k ok hk hki ?_ hno
        by_cases hjk : j = k
        · subst hjk
          exact hjun
        · rw [getD_set_ne true hjk] at hun
          exact hun
      refine wpOp_mono (fun a' w' h3 => ⟨h3.2.1, ih (listed.setIfInBounds j true) a' w' hfree' (ready_mono hr (Ne.symm hji))
        (YieldsIf.weak h3.1 (fun w'' hw'' => (h3.2.1 hWj).trans hw'')) ?_⟩) h2
      rw [Array.setIfInBounds_comm _ _ hji]
      exact h3.2.2

theorem wpAnyW_firstA {i : Nat} {oi : Oper} {v : Value} (hi : ops[i]? = some oi) (hsel : ∀ (j : Nat) (o : Oper) cs b, ops[j]? = some o → o.op ≠ .select cs b) (hQ : ∀ c a w, Q (.panic c) (a.put oi.dst v) w → Q (.panic c) a w) :
    ∀ (fuel : Nat) (listed : Array Bool) (a : Act) (w : World),
      (∀ j oj, ops[j]? = some oj → j ≠ i → listed.getD j true = false → (∀ e ∈ oj.after, Region.binds md e = true → e.on ≠ i) → oi.apart ops oj = true) →
      i ∈ Region.ready md ops listed → YieldsIf P ops (fun _ => True) oi v a →
      wpAnyW P md ops Q W lo fuel (listed.setIfInBounds i true) (a.put oi.dst v) w → wpAnyW P md ops Q W lo (fuel + 1) listed a w := by
  intro fuel
  induction fuel with
  | zero =>
    intro listed a w _ hr hy H
    refine ⟨fun h => (by rw [h] at hr; cases hr), fun j hj => ?_⟩
    by_cases hji : j = i
    · subst hji
      exact hy.wpOp hi trivial ⟨fun _ => Below.refl _ w, H⟩
    · have := ready_mono hj hji
      rw [H.1] at this
      cases this
  | succ fuel ih =>
    intro listed a w hfree hr hy H
    refine ⟨fun h => (by rw [h] at hr; cases hr), fun j hj => ?_⟩
    by_cases hji : j = i
    · subst hji
      exact hy.wpOp hi trivial ⟨fun _ => Below.refl _ w, H⟩
    · have h1 := H.2 j (ready_mono hj hji)
      obtain ⟨hjun, oj, hoj, hall⟩ := mem_ready.1 hj
      have hnot : ∀ e ∈ oj.after, Region.binds md e = true → e.on ≠ i := fun e he hb heq => by
        have h1 := hall e he hb
        have h0 := (mem_ready.1 hr).1
        rw [heq] at h1
        rcases Nat.lt_or_ge i listed.size with h' | h'
        · simp [h'] at h0 h1
          rw [h0] at h1
          cases h1
        · simp [Array.getElem?_eq_none h'] at h1
      have h2 := wpOp_putIf hoj (hfree j oj hoj hji hjun hnot) (fun cs b => hsel i oi cs b hi) (fun cs b => hsel j oj cs b hoj) hQ hy h1
      have hfree' : ∀ k ok, ops[k]? = some ok → k ≠ i → (listed.setIfInBounds j true).getD k true = false →
          (∀ e ∈ ok.after, Region.binds md e = true → e.on ≠ i) → oi.apart ops ok = true := fun k ok hk hki hun hno => by
        refine hfree k ok hk hki ?_ hno
        by_cases hjk : j = k
        · subst hjk
          exact hjun
        · rw [getD_set_ne true hjk] at hun
          exact hun
      refine wpOp_mono (fun a' w' h3 => ⟨h3.2.1, ih (listed.setIfInBounds j true) a' w' hfree' (ready_mono hr (Ne.symm hji))
        h3.1 ?_⟩) h2
      rw [Array.setIfInBounds_comm _ _ hji]
      exact h3.2.2

variable {fuel : Nat} {listed : Array Bool} {a : Act} {w : World}
/-- The operations of W all wait for number i. -/
def allWait (md : Region.Mode) (ops : Array Oper) (W : Nat → Bool) (i : Nat) : Bool := !W i && (List.range ops.size).all fun j => !W j || waits md ops j i
theorem allWait_spec {i : Nat} (h : allWait md ops W i = true) : W i = false ∧ ∀ j oj, ops[j]? = some oj → W j = true → waits md ops j i = true := by
  simp only [allWait, Bool.and_eq_true, Bool.not_eq_true'] at h
  refine ⟨h.1, fun j oj hj hw => ?_⟩
  have := List.all_eq_true.1 h.2 j (List.mem_range.2 (Array.getElem?_eq_some_iff.1 hj).1)
  simpa [hw] using this

theorem takeW {i : Nat} {oi : Oper} (v : Value) (hi : ops[i]? = some oi) (ha : allWait md ops W i = true) (hs : Region.noSelect ops = true) (hf : Region.free md ops listed i = true) (hr : (Region.ready md ops listed).contains i = true)
    (hQ : ∀ c a w, Q (.panic c) (a.put oi.dst v) w → Q (.panic c) a w) (hw : Region.wanted oi (yielded ops a.tmps) = true) (hv : ∀ w', Below lo w w' → (execOp a.eval oi).run P w' = .ok (.value v) w')
    (h : wpAnyW P md ops Q W lo fuel (listed.setIfInBounds i true) (a.put oi.dst v) w) : wpAnyW P md ops Q W lo (fuel + 1) listed a w :=
  wpAnyW_first hi (allWait_spec ha).1 (allWait_spec ha).2 (Region.noSelect_spec hs) hQ fuel listed a w (Region.free_spec hi hf) (by simpa using hr) (.inl ⟨hw, hv⟩) h
theorem takeWE {i : Nat} {oi : Oper} (hi : ops[i]? = some oi) (ha : allWait md ops W i = true) (hs : Region.noSelect ops = true) (hf : Region.free md ops listed i = true) (hr : (Region.ready md ops listed).contains i = true)
    (hQ : ∀ v c a w, Q (.panic c) (a.put oi.dst v) w → Q (.panic c) a w) (hw : Region.wanted oi (yielded ops a.tmps) = true)
    (h : ∃ v, (∀ w', Below lo w w' → (execOp a.eval oi).run P w' = .ok (.value v) w') ∧ wpAnyW P md ops Q W lo fuel (listed.setIfInBounds i true) (a.put oi.dst v) w) : wpAnyW P md ops Q W lo (fuel + 1) listed a w := by
  obtain ⟨v, hv, h⟩ := h
  exact takeW v hi ha hs hf hr (hQ v) hw hv h
/-- A value that hangs on no memory. -/
theorem takeAE {i : Nat} {oi : Oper} (hi : ops[i]? = some oi) (hs : Region.noSelect ops = true) (hf : Region.free md ops listed i = true) (hr : (Region.ready md ops listed).contains i = true)
    (hQ : ∀ v c a w, Q (.panic c) (a.put oi.dst v) w → Q (.panic c) a w) (hw : Region.wanted oi (yielded ops a.tmps) = true)
    (h : ∃ v, (∀ w', (execOp a.eval oi).run P w' = .ok (.value v) w') ∧ wpAnyW P md ops Q W lo fuel (listed.setIfInBounds i true) (a.put oi.dst v) w) : wpAnyW P md ops Q W lo (fuel + 1) listed a w := by
  obtain ⟨v, hv, h⟩ := h
  exact wpAnyW_firstA hi (Region.noSelect_spec hs) (hQ v) fuel listed a w (Region.free_spec hi hf) (by simpa using hr) (.inl ⟨hw, fun w' _ => hv w'⟩) h
/-- Number i alone may come, and is a call. -/
theorem callW {i : Nat} {oi : Oper} {f : FuncId} {args : Array Value} (hi : ops[i]? = some oi) (hr : Region.ready md ops listed = [i]) (hw : Region.wanted oi (yielded ops a.tmps) = true)
    (he : (execOp a.eval oi).run P w = .ok (.enter f args) w)
    (h : Calls P f args w fun e w' => ∃ v, e = .returned v ∧ (W i = false → Below lo w w') ∧ wpAnyW P md ops Q W lo fuel (listed.setIfInBounds i true) (a.put oi.dst v) w') : wpAnyW P md ops Q W lo (fuel + 1) listed a w := by
  refine ⟨fun h0 => (by rw [hr] at h0; cases h0), fun j hj => ?_⟩
  rw [hr] at hj
  obtain rfl : j = i := by simpa using hj
  exact wpOp_call hi hw he h
/-- Number i alone may come, and yields a value. -/
theorem opW {i : Nat} {oi : Oper} (v : Value) (w' : World) (hi : ops[i]? = some oi) (hr : Region.ready md ops listed = [i]) (hw : Region.wanted oi (yielded ops a.tmps) = true)
    (he : (execOp a.eval oi).run P w = .ok (.value v) w') (hb : W i = false → Below lo w w') (h : wpAnyW P md ops Q W lo fuel (listed.setIfInBounds i true) (a.put oi.dst v) w') : wpAnyW P md ops Q W lo (fuel + 1) listed a w := by
  refine ⟨fun h0 => (by rw [hr] at h0; cases h0), fun j hj => ?_⟩
  rw [hr] at hj
  obtain rfl : j = i := by simpa using hj
  exact wpOp_value hi hw he ⟨hb, h⟩
/-- Number i alone may come, and stores. -/
theorem storeW {i : Nat} {oi : Oper} (w' : World) (hi : ops[i]? = some oi) (hr : Region.ready md ops listed = [i]) (hw : Region.wanted oi (yielded ops a.tmps) = true)
    (he : (execOp a.eval oi).run P w = .ok .skip w') (hb : W i = false → Below lo w w') (h : wpAnyW P md ops Q W lo fuel (listed.setIfInBounds i true) (a.put oi.dst undef) w') : wpAnyW P md ops Q W lo (fuel + 1) listed a w := by
  refine ⟨fun h0 => (by rw [hr] at h0; cases h0), fun j hj => ?_⟩
  rw [hr] at hj
  obtain rfl : j = i := by simpa using hj
  unfold wpOp
  simp only [hi, hw, if_true]
  refine .inl ?_
  unfold Oper.wp
  rw [he]
  exact ⟨hb, h⟩
theorem storeW_all {i : Nat} {oi : Oper} (hi : ops[i]? = some oi) (hr : Region.ready md ops listed = [i]) (hw : Region.wanted oi (yielded ops a.tmps) = true)
    (ty : TypeId) (p x : Operand) (ho : oi.op = .store ty p x) (g : Nat) (hp : a.eval p = .pointer (some ⟨g, 0, none⟩)) (cs : Array Value) (hx : a.eval x = .agg cs)
    (t : TypeId) (cur : Array Value) (hg : w.heap[g]? = some (.cells cur t (0, 0))) (hsz : (P.info? ty).map (·.size) = some cs.size) (hfit : cs.size = cur.size) (h1 : ∀ u ∈ cs.toList, u.oneCell' = true) (hW : W i = true)
    (h : ∀ w', w'.heap[g]? = some (.cells cs t (0, 0)) → w.grownBy w' (some g) → w'.heap.size = w.heap.size → wpAnyW P md ops Q W lo fuel (listed.setIfInBounds i true) (a.put oi.dst undef) w') : wpAnyW P md ops Q W lo (fuel + 1) listed a w := by
  obtain ⟨w', h2, h3, h4, h5⟩ := exec_store_all (P := P) (a := a) (w := w) (o := oi) ty p x ho g hp cs hx t cur hg hsz hfit h1
  exact storeW w' hi hr hw h2 (fun h => by rw [hW] at h; cases h) (h w' h3 h4 h5)
theorem doneW (hr : Region.ready md ops listed = []) (h : Q .normal a w) : ∀ fuel, wpAnyW P md ops Q W lo fuel listed a w
  | 0 => ⟨hr, h⟩
  | _ + 1 => ⟨fun _ => h, by rw [hr]; simp⟩
theorem startW (W : Nat → Bool) (lo : Nat) {id : Nat} (hm : P.follows .mixedOrders = true) (h : wpAnyW P .any ops Q W lo ops.size (Array.replicate ops.size false) a w.drew) : (Code.region id ops true).wp P Q a w :=
  wp_region_any hm (wpAny_of_W _ _ _ _ h)
end


section
variable {P : Program} {ops : Array Oper} {Q : Exit → Act → World → Prop} {md : Region.Mode} {W : Nat → Bool} {lo : Nat}
/-- Does number j wait for number i, directly or by way of others? -/
def waitsT (md : Region.Mode) (ops : Array Oper) : Nat → Nat → Nat → Bool
  | 0, j, i => waits md ops j i
  | f + 1, j, i => waits md ops j i || (List.range ops.size).any fun k => waits md ops j k && waitsT md ops f k i
def Deps (md : Region.Mode) (ops : Array Oper) (listed : Array Bool) (j : Nat) : Prop := ∃ o, ops[j]? = some o ∧ ∀ e ∈ o.after, Region.binds md e = true → listed.getD e.on false = true
def Closed (md : Region.Mode) (ops : Array Oper) (listed : Array Bool) : Prop := ∀ k o, ops[k]? = some o → listed.getD k false = true → ∀ e ∈ o.after, Region.binds md e = true → listed.getD e.on false = true
def closedB (md : Region.Mode) (ops : Array Oper) (listed : Array Bool) : Bool := (List.range ops.size).all fun k => !listed.getD k false || (match ops[k]? with | some o => o.after.toList.all fun e => !Region.binds md e || listed.getD e.on false | none => true)
theorem closedB_spec {listed : Array Bool} (h : closedB md ops listed = true) : Closed md ops listed := by
  intro k o ho hk e he hb
  have := List.all_eq_true.1 h k (List.mem_range.2 (Array.getElem?_eq_some_iff.1 ho).1)
  simp only [ho, hk, Bool.not_true, Bool.false_or] at this
  have := List.all_eq_true.1 this e (by simpa using he)
  simpa [hb] using this
theorem Closed.next {listed : Array Bool} (h : Closed md ops listed) {j : Nat} (hj : j ∈ Region.ready md ops listed) : Closed md ops (listed.setIfInBounds j true) := by
  intro k o ho hk e he hb
  by_cases hkj : j = k
  · subst hkj
    obtain ⟨_, o', ho', hall⟩ := mem_ready.1 hj
    obtain rfl : o = o' := Option.some.inj (ho.symm.trans ho')
    exact getD_set_true (hall e he hb)
  · rw [getD_set_ne false hkj] at hk
    exact getD_set_true (h k o ho hk e he hb)
theorem waits_listed {listed : Array Bool} {j i : Nat} (hd : Deps md ops listed j) (hw : waits md ops j i = true) : listed.getD i false = true := by
  obtain ⟨o, ho, hall⟩ := hd
  unfold waits at hw
  simp only [ho] at hw
  obtain ⟨e, he, hb⟩ := List.any_eq_true.1 hw
  simp only [Bool.and_eq_true, beq_iff_eq] at hb
  rw [← hb.2]
  exact hall e (by simpa using he) hb.1
theorem waits_some {j i : Nat} (hw : waits md ops j i = true) : ∃ o, ops[j]? = some o := by
  unfold waits at hw
  cases h : ops[j]? with
  | none => simp [h] at hw
  | some o => exact ⟨o, rfl⟩
theorem waitsT_some {j i : Nat} : ∀ f, waitsT md ops f j i = true → ∃ o, ops[j]? = some o
  | 0, h => waits_some h
  | f + 1, h => by
    simp only [waitsT, Bool.or_eq_true] at h
    rcases h with h | h
    · exact waits_some h
    · obtain ⟨k, _, hk⟩ := List.any_eq_true.1 h
      simp only [Bool.and_eq_true] at hk
      exact waits_some hk.1
theorem waitsT_listed {listed : Array Bool} (hc : Closed md ops listed) {i : Nat} : ∀ (f j : Nat), Deps md ops listed j → waitsT md ops f j i = true → listed.getD i false = true
  | 0, j, hd, h => waits_listed hd h
  | f + 1, j, hd, h => by
    simp only [waitsT, Bool.or_eq_true] at h
    rcases h with h | h
    · exact waits_listed hd h
    · obtain ⟨k, _, hk⟩ := List.any_eq_true.1 h
      simp only [Bool.and_eq_true] at hk
      obtain ⟨o, ho⟩ := waitsT_some f hk.2
      exact waitsT_listed hc f k ⟨o, ho, hc k o ho (waits_listed hd hk.1)⟩ hk.2
theorem ready_not_listed {listed : Array Bool} {i : Nat} (hr : i ∈ Region.ready md ops listed) (h : listed.getD i false = true) : False := by
  have h0 := (mem_ready.1 hr).1
  rcases Nat.lt_or_ge i listed.size with h' | h'
  · simp [h'] at h0 h
    rw [h0] at h
    cases h
  · simp [Array.getElem?_eq_none h'] at h
theorem wpAnyW_firstT {F : Nat} {i : Nat} {oi : Oper} {v : Value} (hi : ops[i]? = some oi) (hWi : W i = false) (hW : ∀ j oj, ops[j]? = some oj → W j = true → waitsT md ops F j i = true)
    (hsel : ∀ (j : Nat) (o : Oper) cs b, ops[j]? = some o → o.op ≠ .select cs b) (hQ : ∀ c a w, Q (.panic c) (a.put oi.dst v) w → Q (.panic c) a w) :
    ∀ (fuel : Nat) (listed : Array Bool) (a : Act) (w : World), Closed md ops listed →
      (∀ j oj, ops[j]? = some oj → j ≠ i → listed.getD j true = false → (∀ e ∈ oj.after, Region.binds md e = true → e.on ≠ i) → oi.apart ops oj = true) →
      i ∈ Region.ready md ops listed → YieldsIf P ops (fun w' => Below lo w w') oi v a →
      wpAnyW P md ops Q W lo fuel (listed.setIfInBounds i true) (a.put oi.dst v) w → wpAnyW P md ops Q W lo (fuel + 1) listed a w := by
  intro fuel
  induction fuel with
  | zero =>
    intro listed a w _ _ hr hy H
    refine ⟨fun h => (by rw [h] at hr; cases hr), fun j hj => ?_⟩
    by_cases hji : j = i
    · subst hji
      exact hy.wpOp hi (Below.refl _ w) ⟨fun _ => Below.refl _ w, H⟩
    · have := ready_mono hj hji
      rw [H.1] at this
      cases this
  | succ fuel ih =>
    intro listed a w hcl hfree hr hy H
    refine ⟨fun h => (by rw [h] at hr; cases hr), fun j hj => ?_⟩
    by_cases hji : j = i
    · subst hji
      exact hy.wpOp hi (Below.refl _ w) ⟨fun _ => Below.refl _ w, H⟩
    · have h1 := H.2 j (ready_mono hj hji)
      obtain ⟨hjun, oj, hoj, hall⟩ := mem_ready.1 hj
      have hWj : W j = false := by
        cases hw : W j with
        | false => rfl
        | true => exact absurd (waitsT_listed hcl F j ⟨oj, hoj, hall⟩ (hW j oj hoj hw)) (fun h => ready_not_listed hr h)
      have hnot : ∀ e ∈ oj.after, Region.binds md e = true → e.on ≠ i := fun e he hb heq => by
        have h1 := hall e he hb
        rw [heq] at h1
        exact ready_not_listed hr h1
      have h2 := wpOp_putIf hoj (hfree j oj hoj hji hjun hnot) (fun cs b => hsel i oi cs b hi) (fun cs b => hsel j oj cs b hoj) hQ hy h1
      have hfree' : ∀ k ok, ops[k]? = some ok → k ≠ i → (listed.setIfInBounds j true).getD k true = false →
          (∀ e ∈ ok.after, Region.binds md e = true → e.on ≠ i) → oi.apart ops ok = true := fun k ok hk hki hun hno => by
        refine hfree k ok hk hki ?_ hno
        by_cases hjk : j = k
        · subst hjk
          exact hjun
        · rw [getD_set_ne true hjk] at hun
          exact hun
      refine wpOp_mono (fun a' w' h3 => ⟨h3.2.1, ih (listed.setIfInBounds j true) a' w' (hcl.next hj) hfree' (ready_mono hr (Ne.symm hji))
        (YieldsIf.weak h3.1 (fun w'' hw'' => (h3.2.1 hWj).trans hw'')) ?_⟩) h2
      rw [Array.setIfInBounds_comm _ _ hji]
      exact h3.2.2

variable {fuel : Nat} {listed : Array Bool} {a : Act} {w : World}
def allWaitT (md : Region.Mode) (ops : Array Oper) (W : Nat → Bool) (i : Nat) : Bool := !W i && (List.range ops.size).all fun j => !W j || waitsT md ops 2 j i
theorem allWaitT_spec {i : Nat} (h : allWaitT md ops W i = true) : W i = false ∧ ∀ j oj, ops[j]? = some oj → W j = true → waitsT md ops 2 j i = true := by
  simp only [allWaitT, Bool.and_eq_true, Bool.not_eq_true'] at h
  refine ⟨h.1, fun j oj hj hw => ?_⟩
  have := List.all_eq_true.1 h.2 j (List.mem_range.2 (Array.getElem?_eq_some_iff.1 hj).1)
  simpa [hw] using this
theorem takeT {i : Nat} {oi : Oper} (v : Value) (hi : ops[i]? = some oi) (hc : closedB md ops listed = true) (ha : allWaitT md ops W i = true) (hs : Region.noSelect ops = true) (hf : Region.free md ops listed i = true) (hr : (Region.ready md ops listed).contains i = true)
    (hQ : ∀ c a w, Q (.panic c) (a.put oi.dst v) w → Q (.panic c) a w) (hw : Region.wanted oi (yielded ops a.tmps) = true) (hv : ∀ w', Below lo w w' → (execOp a.eval oi).run P w' = .ok (.value v) w')
    (h : wpAnyW P md ops Q W lo fuel (listed.setIfInBounds i true) (a.put oi.dst v) w) : wpAnyW P md ops Q W lo (fuel + 1) listed a w :=
  wpAnyW_firstT hi (allWaitT_spec ha).1 (allWaitT_spec ha).2 (Region.noSelect_spec hs) hQ fuel listed a w (closedB_spec hc) (Region.free_spec hi hf) (by simpa using hr) (.inl ⟨hw, hv⟩) h
end
theorem eachW {P : Program} {ops : Array Oper} {Q : Exit → Act → World → Prop} {md : Region.Mode} {W : Nat → Bool} {lo fuel : Nat} {listed : Array Bool} {a : Act} {w : World} (L : List Nat) (hr : Region.ready md ops listed = L) (hL : L ≠ [])
    (h : ∀ i ∈ L, wpOp P ops Q i (fun a' w' => (W i = false → Below lo w w') ∧ wpAnyW P md ops Q W lo fuel (listed.setIfInBounds i true) a' w') a w) : wpAnyW P md ops Q W lo (fuel + 1) listed a w :=
  ⟨fun h0 => absurd (hr.symm.trans h0) hL, fun i hi => h i (by rw [← hr]; exact hi)⟩
theorem two_ways {P : Nat → Prop} {i j : Nat} (hi : P i) (hj : P j) : ∀ k ∈ [i, j], P k := by
  intro k hk
  simp only [List.mem_cons, List.not_mem_nil, or_false] at hk
  rcases hk with rfl | rfl
  · exact hi
  · exact hj
theorem mapM_some {α β : Type} (f : α → Option β) (g : α → β) : ∀ (L : List α), (∀ i ∈ L, f i = some (g i)) → L.mapM f = some (L.map g)
  | [], _ => rfl
  | x :: L, h => by
    rw [List.mapM_cons, h x (by simp), mapM_some f g L (fun i hi => h i (by simp [hi]))]
    rfl
theorem flatten_single {α β : Type} (h : α → β) : ∀ L : List α, (L.map fun i => [h i]).flatten = L.map h
  | [] => rfl
  | x :: L => by simp [flatten_single h L]
theorem keyLits_ints {P : Program} {t e n : Nat} {k : IntKind} (ht : P.underlying t = some (.array n e)) (he : P.underlying e = some (.int k)) (hce : P.cellsOf e = 1) (hct : P.cellsOf t = n) (l : List Int) (hl : l.length = n) (hw : ∀ x ∈ l, (Lit.int k x).wf = true) :
    P.keyLits 2 t (l.map fun x => Value.int k x) = some (l.map fun x => Lit.int k x) := by
  unfold Program.keyLits
  simp only [ht, hct, hce, List.length_map, hl, if_true]
  rw [mapM_some _ (fun i => [Lit.int k (l.getD i 0)])]
  · rw [Option.map_some, flatten_single]
    congr 1
    apply List.ext_getElem
    · simp [hl]
    · intro i h1 h2
      simp at h1
      simp [List.getElem?_eq_getElem (show i < l.length by omega)]
  · intro i hi
    have hi' : i < l.length := by rw [hl]; simpa using hi
    have hd : ((l.map fun x => Value.int k x).drop (i * 1)).take 1 = [Value.int k l[i]] := by
      rw [Nat.mul_one, List.drop_eq_getElem_cons (by rw [List.length_map]; exact hi')]
      simp
    rw [hd]
    have := hw l[i] (List.getElem_mem _)
    simp [Program.keyLits, he, this, List.getElem?_eq_getElem hi']
theorem eq_same {P : Program} {t e n : Nat} {k : IntKind} (ht : P.underlying t = some (.array n e)) (he : P.underlying e = some (.int k)) (hce : P.cellsOf e = 1) (hct : P.cellsOf t = n) (hk : P.keyTypeAt 2 t = true) (l : List Int) (hl : l.length = n) (hw : ∀ x ∈ l, (Lit.int k x).wf = true) (w : World) :
    (Op.equalIn 10000 t (.agg (l.map fun x => Value.int k x).toArray) (.agg (l.map fun x => Value.int k x).toArray)).run P w = .ok true w := by
  have hf : (Value.agg (l.map fun x => Value.int k x).toArray).formed P t = true := by simp [Value.formed, hct, hl, ht]
  have hl2 : P.keyLits 2 t (Value.agg (l.map fun x => Value.int k x).toArray).cells.toList = some (l.map fun x => Lit.int k x) := keyLits_ints ht he hce hct l hl hw
  obtain ⟨r, hr, hiff⟩ := run_equalIn_deep (P := P) 9998 2 t hk w 2 2 _ _ _ _ hf hf hl2 hl2
  rw [hr]
  congr 1
  exact hiff.2 rfl
theorem bcs_ints (l : List UInt8) : bcs l = (l.map fun b => (b.toNat : Int)).map fun x => Value.int .u8 x := by
  rw [List.map_map]
  rfl
theorem ucs_ints (l : List Nat) : ucs l = (l.map fun (b : Nat) => (b : Int)).map fun x => Value.int .u64 x := by
  rw [List.map_map]
  rfl
theorem wf8 (l : List UInt8) : ∀ x ∈ (l.map fun b => (b.toNat : Int)), (Lit.int .u8 x).wf = true := by
  intro x hx
  obtain ⟨b, _, rfl⟩ := List.mem_map.1 hx
  have := b.toNat_lt
  simp [Lit.wf, IntKind.min, IntKind.max, IntKind.signed, IntKind.bits]
  omega
theorem wf64 (l : List Nat) (hl : ∀ x ∈ l, x < 18446744073709551616) : ∀ x ∈ (l.map fun (b : Nat) => (b : Int)), (Lit.int .u64 x).wf = true := by
  intro x hx
  obtain ⟨b, hb, rfl⟩ := List.mem_map.1 hx
  have := hl b hb
  simp [Lit.wf, IntKind.min, IntKind.max, IntKind.signed, IntKind.bits]
  omega
/-- A slicing, by its run. -/
theorem exec_slice {P : Program} {o : Oper} {a : Act} {w : World} (t : TypeId) (x : Operand) (lo hi : Option Operand) (ho : o.op = .slice t x lo hi none) (v : Value) (hr : (Instr.sliceAt t (a.eval x) (lo.map a.eval) (hi.map a.eval) none).run P w = .ok v w) :
    (execOp a.eval o).run P w = .ok (.value v) w := by
  unfold execOp
  simp only [ho, Option.map_none, Sem.run_bind, Sem.run_pure, Result.andThen_ok, hr]
theorem ucs_set (l : List Nat) (j x : Nat) : (ucs l).toArray.setIfInBounds j (.int .u64 (x : Int)) = (ucs (l.set j x)).toArray := by
  apply Array.toList_inj.1
  rw [Array.toList_setIfInBounds]
  simp [ucs, uc, List.map_set]
theorem row_cells {w : World} {g : Nat} {cs : Array Value} {t : TypeId} (h : w.heap[g]? = some (.cells cs t (0, 0))) (i : Nat) (u : Value) (hu : cs.toList[i]? = some u) : w.cell? ⟨g, i, none⟩ = some u := by
  rw [cell_of_row w g i cs t (0, 0) h]
  simpa using hu
theorem word_cell {w : World} {g : Nat} {t : TypeId} {l : List Nat} (h : w.heap[g]? = some (.cells (ucs l).toArray t (0, 0))) (i : Nat) (hi : i < l.length) : w.cell? ⟨g, i, none⟩ = some (.int .u64 (l.getD i 0 : Nat)) := by
  refine row_cells h i _ ?_
  rw [List.toList_toArray, ucs_get, List.getD_eq_getElem?_getD, List.getElem?_eq_getElem hi]
  rfl

/-- So many zero words. -/
def zw (n : Nat) : Array Value := (ucs (List.replicate n 0)).toArray
/-- So many zero bytes, as an array. -/
def zbs (n : Nat) : Array Value := (bcs (List.replicate n 0)).toArray
theorem byte_of (x k : Nat) (y : UInt8) (h : y = UInt8.ofNat (x / 2 ^ k)) : ((x : Int) / 2 ^ k % 256) = (y.toNat : Int) := by
  subst h
  rw [UInt8.toNat_ofNat']
  simp

theorem wpList_store_one {P : Program} {ops : Array Oper} {rest : List Oper} {o : Oper} {a : Act} {w : World} {Q : Exit → Act → World → Prop} (hgd : Region.wanted o (yielded ops a.tmps) = true) (ty : TypeId) (p x : Operand) (ho : o.op = .store ty p x) (g j : Nat) (hp : a.eval p = .pointer (some ⟨g, j, none⟩)) (k : IntKind) (n : Int) (hx : a.eval x = .int k n)
    (t : TypeId) (cur : Array Value) (hg : w.heap[g]? = some (.cells cur t (0, 0))) (hi : (P.info? ty).map (·.size) = some 1) (hj : j < cur.size)
    (h : ∀ w', w'.heap[g]? = some (.cells (cur.setIfInBounds j (.int k n)) t (0, 0)) → w.grownBy w' (some g) → w'.heap.size = w.heap.size → wpList P ops Q rest (a.put o.dst undef) w') :
    wpList P ops Q (o :: rest) a w := by
  refine wpList_want hgd fun K hK => ?_
  cases hq : P.info? ty with
  | none => simp [hq] at hi
  | some i =>
    have hs : i.size = 1 := by simpa [hq] using hi
    have hst := run_storeCells_at P g j t [.int k n] 0 cur w hg (by simp; omega) (by simp [Value.oneCell'])
    simp only [Nat.add_zero] at hst
    have he : (cur.toList.take j ++ [Value.int k n] ++ cur.toList.drop (j + [Value.int k n].length)).toArray = cur.setIfInBounds j (.int k n) := by
      apply Array.toList_inj.1
      rw [Array.toList_setIfInBounds, List.set_eq_take_append_cons_drop, if_pos (by simpa using hj)]
      simp
    rw [he] at hst
    have hrun : (Instr.storeAt ty (.pointer (some ⟨g, j, none⟩)) (.int k n)).run P w = .ok () (w.setRow g (cur.setIfInBounds j (.int k n))) := by
      simp [Instr.storeAt, Instr.sureAddr, storeVar, sizeOf, typeInfo, hq, hs, Value.cells, hst]
    unfold Oper.wp execOp
    simp only [ho, hp, hx, Sem.run_bind, Sem.run_pure, Result.andThen_ok, hrun]
    exact hK _ _ (h _ (setRow_heap w g cur _ t _ hg) (setRow_grown w g _) (by simp))

/-- A part of a function's text. -/
def findAt (p : Code → Bool) : Code → Option Code
  | .seq a b => if p (.seq a b) then some (.seq a b) else (match findAt p a with | some c => some c | none => findAt p b)
  | .block _ c => findAt p c
  | .loop c => findAt p c
  | .scope c => findAt p c
  | .cond _ a b => (match findAt p a with | some c => some c | none => findAt p b)
  | _ => none
def atRegion (r : Nat) : Code → Bool
  | .seq (.seq (.region k _ _) _) _ => k == r
  | _ => false

end Go.Proofs.Ytkglicidjdifkaa
