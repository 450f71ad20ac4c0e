/- Several texts in one. No statement is proved here. -/
import Derived.BigQuiet
import Derived.Deep.DeepCutAuto
import Derived.Deep.Draws
import Derived.DeepKeys
import Derived.IntWalk
import Derived.Laws.BitsAllLaws
import Derived.Laws.Externs
import Derived.Lib.Hide
import Derived.Maps.AppendAt
import Derived.OrdersHeld
import Derived.RegionTactic
import Derived.StillTailTactics
import Derived.WalkKit
import Derived.WalkLawsBesides
import Derived.WalkSpells
import Derived.Test.YtgdimnbdnepbgaaShelf
/- General words for the walks of a seat: sources, appends, arrays as rows, regions whose order is drawn. No statement is proved here. -/
namespace Go.Proofs.Ytgdimnbdnepbgaa
open Go.RowKit
set_option linter.unusedVariables false
set_option linter.unusedSimpArgs false


/-- One byte as a cell. -/
def bc (b : UInt8) : Value := .int .u8 (b.toNat : Int)
/-- Bytes as cells. -/
def bcs (l : List UInt8) : List Value := l.map bc

theorem bcs_len (l : List UInt8) : (bcs l).length = l.length := List.length_map ..
theorem bcs_one (l : List UInt8) : ∀ u ∈ bcs l, u.oneCell' = true := by
  intro u hu
  obtain ⟨b, _, rfl⟩ := List.mem_map.1 hu
  rfl
theorem bcs_append (a b : List UInt8) : bcs (a ++ b) = bcs a ++ bcs b := List.map_append ..
theorem bcs_snoc (l : List UInt8) (b : UInt8) : bcs l ++ [.int .u8 (b.toNat : Int)] = bcs (l ++ [b]) := by rw [bcs_append]; rfl
theorem bcs_get (l : List UInt8) (i : Nat) : (bcs l)[i]? = l[i]?.map bc := List.getElem?_map ..

/-- The slice value with address A and n elements reads as xs, in a block that S allows. -/
structure Src (w : World) (S : Nat → Prop) (A : Option Addr) (n : Nat) (xs : List Value) : Prop where
  len : xs.length = n
  lies : 0 < n → ∃ b o, A = some ⟨b, o, none⟩ ∧ S b ∧ ∀ i, i < n → w.cell? ⟨b, o + i, none⟩ = xs[i]?

section
variable {w w' : World} {S S' : Nat → Prop} {A : Option Addr} {n : Nat} {xs : List Value}
theorem Src.nil_ (w : World) (S : Nat → Prop) (A : Option Addr) : Src w S A 0 [] := ⟨rfl, fun h => absurd h (by omega)⟩
theorem Src.keep (h : Src w S A n xs) (hk : ∀ b o, S b → w'.cell? ⟨b, o, none⟩ = w.cell? ⟨b, o, none⟩) (hS : ∀ b, S b → S' b) : Src w' S' A n xs :=
  ⟨h.len, fun hn => by
    obtain ⟨b, o, e, hb, hc⟩ := h.lies hn
    exact ⟨b, o, e, hS b hb, fun i hi => (hk b _ hb).trans (hc i hi)⟩⟩
theorem Src.weak (h : Src w S A n xs) (hS : ∀ b, S b → S' b) : Src w S' A n xs := h.keep (fun _ _ _ => rfl) hS
theorem Src.below {B : Nat} (h : Src w (· < B) A n xs) (hb : Below B w w') (hS : ∀ b, b < B → S' b) : Src w' S' A n xs :=
  h.keep (fun b o hlt => hb.cell (p := ⟨b, o, none⟩) hlt) hS
/-- Everything but one row is as it was. -/
theorem Src.grown {row : Option Nat} (h : Src w S A n xs) (hg : w.grownBy w' row) (hS : ∀ b, S b → b < w.heap.size ∧ some b ≠ row) (hS' : ∀ b, S b → S' b) : Src w' S' A n xs :=
  h.keep (fun b o hb => World.cell?_of_block (a := ⟨b, o, none⟩) (hg.block b (hS b hb).1 (hS b hb).2)) hS'
theorem Src.drewN (h : Src w S A n xs) (k : Nat) : Src (w.drewN k) S A n xs := ⟨h.len, h.lies⟩
theorem Src.alloc (h : Src w S A n xs) (hS : ∀ b, S b → b < w.heap.size) (o : Obj) : Src (w.alloc o) S A n xs :=
  h.keep (fun b j hb => World.cell?_alloc_lt w o ⟨b, j, none⟩ (hS b hb)) fun _ hb => hb
theorem Src.cells {b o : Nat} (h : Src w S (some ⟨b, o, none⟩) n xs) (j : Nat) (u : Value) (hu : xs[j]? = some u) : w.cell? ((⟨b, o, none⟩ : Addr).add j) = some u := by
  have hj : j < n := by have := (List.getElem?_eq_some_iff.1 hu).1; have := h.len; omega
  obtain ⟨b', o', e, _, hc⟩ := h.lies (by omega)
  injection e with e
  injection e with e1 e2
  subst e1; subst e2
  have := hc j hj
  rw [hu] at this
  unfold Addr.add
  split
  · rename_i h0; subst h0; simpa using this
  · exact this
/-- A source of the call's own. -/
theorem Src.own {base : Nat} {e : TypeId} {c : Nat} (h : w.ownsRow base e 1 (.slice A n c) n xs) (hS : ∀ g, base ≤ g → g < w.heap.size → S g) : Src w S A n xs := by
  refine ⟨by have := h.1; omega, fun hn => ?_⟩
  rcases h.2 with ⟨_, h0⟩ | ⟨g, cap, cur, hv, hb, hg, hnc, hcm, hcs, ht⟩
  · omega
  · injection hv with hv1 hv2
    refine ⟨g, 0, hv1, hS g hb (Array.getElem?_eq_some_iff.1 hg).1, fun i hi => ?_⟩
    rw [Nat.zero_add, cell_of_row w g i cur e (0, 0) hg, ← ht, List.getElem?_take]
    rw [if_pos (by omega)]
    simp
/-- Cut in front. -/
theorem Src.drop_ {c : Nat} (h : Src w S A n xs) (k : Nat) (hk : k ≤ n) (hc : n ≤ c) : Src w S (if c = k then A else A.map (·.add k)) (n - k) (xs.drop k) := by
  refine ⟨by rw [List.length_drop, h.len], fun hn => ?_⟩
  obtain ⟨b, o, rfl, hb, hcell⟩ := h.lies (by omega)
  refine ⟨b, o + k, ?_, hb, fun i hi => ?_⟩
  · rw [if_neg (by omega)]
    by_cases h0 : k = 0 <;> simp [Addr.add, h0]
  · rw [List.getElem?_drop, ← hcell (k + i) (by omega), Nat.add_assoc]
theorem Src.take_ (h : Src w S A n xs) (k : Nat) (hk : k ≤ n) : Src w S A k (xs.take k) := by
  refine ⟨by rw [List.length_take, h.len]; omega, fun hn => ?_⟩
  obtain ⟨b, o, e, hb, hcell⟩ := h.lies (by omega)
  exact ⟨b, o, e, hb, fun i hi => by rw [List.getElem?_take, if_pos hi]; exact hcell i (by omega)⟩
end

section
variable {P : Program} (w : World)
/-- append from any source, onto a row of the call's own. -/
theorem run_app (base : Nat) (t ty e : TypeId) (i : TypeInfo) (z : Value) (bytes : Nat) (ht : P.underlying t = some (.slice e)) (hi : P.info? e = some i) (hz : i.zero = some z)
    (hsize : i.size = 1) (hby : i.bytes = bytes) (hzs : z.cells.size = 1)
    (v : Value) (n : Nat) (xs : List Value) (hown : w.ownsRow base e 1 v n xs)
    (S : Nat → Prop) (A : Option Addr) (m c : Nat) (ys : List Value) (hs : Src w S A m ys) (h1 : ∀ u ∈ ys, u.oneCell' = true)
    (h63 : n + m ≤ maxLen) (hbytes : (n + m) * bytes ≤ 140737488355328) (hbase : base ≤ w.heap.size) :
    ∃ v' w', (Builtin.append_ #[t, t] ty #[v, .slice A m c]).run P w = .ok v' w' ∧ w'.ownsRow base e 1 v' (n + m) (xs ++ ys) ∧ w.grownBy w' v.ownBlock ∧
      (v'.ownBlock = v.ownBlock ∨ v'.ownBlock = some w.heap.size) := by
  rcases Nat.eq_zero_or_pos m with h0 | h0
  · subst h0
    have hy : ys = [] := List.eq_nil_of_length_eq_zero hs.len
    subst hy
    rcases A with _ | ad
    · refine ⟨v, w, ?_, by simpa using hown, World.grownBy.refl w _, .inl rfl⟩
      rcases hown.2 with ⟨rfl, rfl⟩ | ⟨g, cap, cur, rfl, _, _, hnc, _⟩
      · simp [Builtin.append_, run_underlying ht, sizeOf, typeInfo, hi, Builtin.lenOf, Builtin.firstCells]
      · simp [Builtin.append_, run_underlying ht, sizeOf, typeInfo, hi, Builtin.lenOf, Builtin.firstCells, hnc, storeCells]
    · obtain ⟨v', w', hrun, h2, h3, _, h5⟩ := run_append_own_at (P := P) w base t ty e i z 1 bytes ht hi hz hsize hby hzs (by omega) v n xs hown ad 0 c [] (by simp) (by simp) (by simp) h63 hbytes hbase
      exact ⟨v', w', hrun, h2, h3, h5⟩
  · obtain ⟨b, o, rfl, _, _⟩ := hs.lies h0
    obtain ⟨v', w', hrun, h2, h3, _, h5⟩ := run_append_own_at (P := P) w base t ty e i z 1 bytes ht hi hz hsize hby hzs (by omega) v n xs hown ⟨b, o, none⟩ m c ys (by rw [hs.len]; omega)
      (fun j u hu => Src.cells hs j u hu) h1 h63 hbytes hbase
    exact ⟨v', w', hrun, h2, h3, h5⟩

theorem wpList_want {w : World} {ops : Array Oper} {rest : List Oper} {o : Oper} {a : Act} {Q : Exit → Act → World → Prop} (hw : Region.wanted o (yielded ops a.tmps) = true)
    (h : ∀ K : Act → World → Prop, (∀ a w, wpList P ops Q rest a w → K a w) → o.wp P a w K Q) : wpList P ops Q (o :: rest) a w :=
  wpList_step fun K hK => by rw [if_pos hw]; exact h K hK
/-- The same, at the operation. -/
theorem wpList_app {ops : Array Oper} {rest : List Oper} {o : Oper} {a : Act} {Q : Exit → Act → World → Prop} (hgd : Region.wanted o (yielded ops a.tmps) = true) (s x : Operand) (t : TypeId)
    (ho : o.op = .call { callee := .builtin .append, args := #[s, x], argTypes := #[t, t] })
    (base : Nat) (e : TypeId) (i : TypeInfo) (z : Value) (bytes : Nat) (ht : P.underlying t = some (.slice e)) (hi : P.info? e = some i) (hz : i.zero = some z)
    (hsize : i.size = 1) (hby : i.bytes = bytes) (hzs : z.cells.size = 1)
    (v : Value) (n : Nat) (xs : List Value) (hv : a.eval s = v) (hown : w.ownsRow base e 1 v n xs)
    (S : Nat → Prop) (A : Option Addr) (m c : Nat) (ys : List Value) (hx : a.eval x = .slice A m c) (hs : Src w S A m ys) (h1 : ∀ u ∈ ys, u.oneCell' = true)
    (h63 : n + m ≤ maxLen) (hbytes : (n + m) * bytes ≤ 140737488355328) (hbase : base ≤ w.heap.size)
    (h : ∀ v' w', w'.ownsRow base e 1 v' (n + m) (xs ++ ys) → w.grownBy w' v.ownBlock → (v'.ownBlock = v.ownBlock ∨ v'.ownBlock = some w.heap.size) → wpList P ops Q rest (a.put o.dst v') w') :
    wpList P ops Q (o :: rest) a w := by
  refine wpList_want hgd fun K hK => ?_
  obtain ⟨v', w', hrun, h2, h3, h4⟩ := run_app (P := P) w base t o.type e i z bytes ht hi hz hsize hby hzs v n xs hown S A m c ys hs h1 h63 hbytes hbase
  unfold Oper.wp execOp
  simp only [ho, resolve, invoke, builtin, Sem.run_bind, Sem.run_pure, Result.andThen_ok, List.map_toArray, List.map_cons, List.map_nil, hv, hx, hrun]
  exact hK _ _ (h v' w' h2 h3 h4)
end

/-- The one cell of a new block as a source. -/
theorem Src.lit1 (w : World) (u : Value) (e : TypeId) : Src (w.alloc (.cells #[u] e)) (· < w.heap.size + 1) (some ⟨w.heap.size, 0, none⟩) 1 [u] := by
  refine ⟨rfl, fun _ => ⟨w.heap.size, 0, rfl, by omega, fun i hi => ?_⟩⟩
  obtain rfl : i = 0 := by omega
  rw [cell_of_row _ w.heap.size (0 + 0) #[u] e (0, 0) (heap_alloc_new w _)]
  rfl

theorem grownBy_trans {a b c : World} {row : Option Nat} (h : a.grownBy b row) (k : b.grownBy c row) : a.grownBy c row :=
  ⟨k.os.trans h.os, k.tape.trans h.tape, k.output.trans h.output, Nat.le_trans h.size k.size,
    fun i hi hne => (k.block i (Nat.lt_of_lt_of_le hi h.size) hne).trans (h.block i hi hne)⟩
theorem grownBy_of_below {a w : World} (h : Below a.heap.size a w) (row : Option Nat) : a.grownBy w row := ⟨h.os, h.tape, h.output, h.size, fun i hi _ => h.block i hi⟩
theorem below_of_grownBy {a w : World} (h : a.grownBy w none) : Below a.heap.size a w := ⟨h.os, h.tape, h.output, h.size, fun i hi => h.block i hi (by simp)⟩
theorem grownBy_drewN {a w : World} {row : Option Nat} (h : a.grownBy w row) (n : Nat) : a.grownBy (w.drewN n) row := ⟨h.os, h.tape, h.output, h.size, h.block⟩
theorem below_drewN' {B : Nat} {a w : World} (h : Below B a w) (n : Nat) : Below B a (w.drewN n) := ⟨h.os, h.tape, h.output, h.size, h.block⟩

/-- The length of an owned row of bytes is the list's. -/
theorem own_as {w : World} {B : Nat} {e : TypeId} {v : Value} {n : Nat} {xs : List Value} (h : w.ownsRow B e 1 v n xs) (L : List UInt8) (hx : xs = bcs L) : w.ownsRow B e 1 v L.length (bcs L) := by
  subst hx
  have := h.1
  rw [bcs_len] at this
  obtain rfl : n = L.length := by omega
  exact h

/-- A fresh slice of bytes (element type e): a row of the call's own, everything older is as it was. -/
def Fresh (e : TypeId) (w w' : World) (v : Value) (l : List UInt8) : Prop :=
  w'.ownsRow w.heap.size e 1 v l.length (bcs l) ∧ Below w.heap.size w w'

theorem Fresh.shape {e : TypeId} {w w' : World} {v : Value} {l : List UInt8} (h : Fresh e w w' v l) : ∃ A c, v = .slice A l.length c ∧ l.length ≤ c ∧ c ≤ maxLen ∧ Src w' (fun g => w.heap.size ≤ g ∧ g < w'.heap.size) A l.length (bcs l) := by
  rcases h.1.2 with ⟨rfl, h0⟩ | ⟨g, cap, cur, rfl, hb, hg, hnc, hcm, hcs, ht⟩
  · have hl : l = [] := List.eq_nil_of_length_eq_zero h0
    subst hl
    exact ⟨none, 0, rfl, Nat.le_refl _, by simp [maxLen], Src.nil_ _ _ _⟩
  · exact ⟨_, cap, rfl, hnc, hcm, Src.own h.1 fun g a b => ⟨a, b⟩⟩



/-- So many zero bytes. -/
def zarr (n : Nat) : Array Value := Array.replicate n (.int .u8 0)
theorem zarr_bcs (n : Nat) : (zarr n).toList = bcs (List.replicate n 0) := by simp [zarr, bcs, bc]

section
variable {P : Program} {ops : Array Oper} {rest : List Oper} {o : Oper} {a : Act} {w : World} {Q : Exit → Act → World → Prop}

theorem setRow_grown (w : World) (g : Nat) (cs : Array Value) : w.grownBy (w.setRow g cs) (some g) := by
  refine ⟨rfl, rfl, rfl, by simp, fun k _ hne => ?_⟩
  have : k ≠ g := fun e => hne (by rw [e])
  simp only [World.setRow, Array.getElem?_modify]
  rw [if_neg (by omega)]

/-- A variable of an array type is made. -/
theorem wpList_alloc_row (hgd : Region.wanted o (yielded ops a.tmps) = true) (elem : TypeId) (ho : o.op = .alloc elem) (z : Value) (hz : ∀ w, (zeroValue elem).run P w = .ok z w)
    (h : ∀ w', w'.heap[w.heap.size]? = some (.cells z.cells elem (0, 0)) → w'.heap.size = w.heap.size + 1 → w.grownBy w' none → wpList P ops Q rest (a.put o.dst (.pointer (some ⟨w.heap.size, 0, none⟩))) w') :
    wpList P ops Q (o :: rest) a w := by
  refine wpList_want hgd fun K hK => ?_
  have hrun : (Instr.alloc elem true (.tuple #[])).run P w = .ok (.pointer (some ⟨w.heap.size, 0, none⟩)) (w.alloc (.cells z.cells elem)) := by
    simp [Instr.alloc, hz, newVar, newRow]
  unfold Oper.wp execOp
  simp only [ho, Sem.run_bind, Sem.run_pure, Result.andThen_ok, hrun]
  exact hK _ _ (h _ (heap_alloc_new w _) (by simp) (World.grownBy_alloc w _ none))

/-- A whole array is stored into a row. -/
theorem wpList_store_row (hgd : Region.wanted o (yielded ops a.tmps) = true) (ty : TypeId) (p x : Operand) (ho : o.op = .store ty p x) (g off : Nat) (hp : a.eval p = .pointer (some ⟨g, off, none⟩)) (cs : Array Value) (hx : a.eval x = .agg cs)
    (t : TypeId) (cur : Array Value) (hg : w.heap[g]? = some (.cells cur t (0, 0))) (hi : (P.info? ty).map (·.size) = some cs.size) (hfit : off + cs.size ≤ cur.size) (h1 : ∀ u ∈ cs.toList, u.oneCell' = true)
    (h : ∀ w', w'.heap[g]? = some (.cells (cur.toList.take off ++ cs.toList ++ cur.toList.drop (off + cs.size)).toArray t (0, 0)) → w.grownBy w' (some g) → w'.heap.size = w.heap.size → wpList P ops Q rest (a.put o.dst undef) w') :
    wpList P ops Q (o :: rest) a w := by
  refine wpList_want hgd fun K hK => ?_
  cases hq : P.info? ty with
  | none => simp [hq] at hi
  | some i =>
    have hs : i.size = cs.size := by simpa [hq] using hi
    have hst := run_storeCells_at P g off t cs.toList 0 cur w hg (by simpa using hfit) h1
    simp only [Nat.add_zero, Array.length_toList] at hst
    have hrun : (Instr.storeAt ty (.pointer (some ⟨g, off, none⟩)) (.agg cs)).run P w = .ok () (w.setRow g (cur.toList.take off ++ cs.toList ++ cur.toList.drop (off + cs.size)).toArray) := by
      simp [Instr.storeAt, Instr.sureAddr, storeVar, sizeOf, typeInfo, hq, hs, Value.cells, hst]
    unfold Oper.wp execOp
    simp only [ho, hp, hx, Sem.run_bind, Sem.run_pure, Result.andThen_ok, hrun]
    exact hK _ _ (h _ (setRow_heap w g cur _ t _ hg) (setRow_grown w g _) (by simp))

/-- A whole array is stored over a whole row. -/
theorem wpList_store_all (hgd : Region.wanted o (yielded ops a.tmps) = true) (ty : TypeId) (p x : Operand) (ho : o.op = .store ty p x) (g : Nat) (hp : a.eval p = .pointer (some ⟨g, 0, none⟩)) (cs : Array Value) (hx : a.eval x = .agg cs)
    (t : TypeId) (cur : Array Value) (hg : w.heap[g]? = some (.cells cur t (0, 0))) (hi : (P.info? ty).map (·.size) = some cs.size) (hfit : cs.size = cur.size) (h1 : ∀ u ∈ cs.toList, u.oneCell' = true)
    (h : ∀ w', w'.heap[g]? = some (.cells cs t (0, 0)) → w.grownBy w' (some g) → w'.heap.size = w.heap.size → wpList P ops Q rest (a.put o.dst undef) w') :
    wpList P ops Q (o :: rest) a w := by
  refine wpList_store_row hgd ty p x ho g 0 hp cs hx t cur hg hi (by omega) h1 fun w' hh hg hs => h w' ?_ hg hs
  rw [hh]
  simp [hfit, List.drop_of_length_le]

/-- A whole array is loaded, wherever it lies. -/
theorem wpList_load_arr (hgd : Region.wanted o (yielded ops a.tmps) = true) (ty : TypeId) (x : Operand) (ho : o.op = .load ty x) (b off : Nat) (hx : a.eval x = .pointer (some ⟨b, off, none⟩))
    (xs : List Value) (hc : ∀ i u, xs[i]? = some u → w.cell? ⟨b, off + i, none⟩ = some u) (d : TypeDesc) (hu : P.underlying ty = some d) (hd : (match d with | .struct _ | .array _ _ => true | _ => false) = true)
    (hi : (P.info? ty).map (·.size) = some xs.length) (h : wpList P ops Q rest (a.put o.dst (.agg xs.toArray)) w) : wpList P ops Q (o :: rest) a w := by
  refine wpList_want hgd fun K hK => ?_
  cases hq : P.info? ty with
  | none => simp [hq] at hi
  | some i =>
    have hs : i.size = xs.length := by simpa [hq] using hi
    have hl : (loadCells ⟨b, off, none⟩ xs.length).run P w = .ok xs.toArray w :=
      run_loadCells_list (P := P) w ⟨b, off, none⟩ xs (fun j v hv => by
        have hadd : (⟨b, off, none⟩ : Addr).add j = ⟨b, off + j, none⟩ := by unfold Addr.add; split <;> simp_all
        rw [hadd]
        exact hc j v hv)
    have hagg : (isAgg ty).run P w = .ok true w := by
      unfold isAgg
      rw [Sem.run_bind, run_underlying hu w]
      cases d <;> simp_all
    have hrun : (Instr.loadAt ty (.pointer (some ⟨b, off, none⟩))).run P w = .ok (.agg xs.toArray) w := by
      simp [Instr.loadAt, Instr.sureAddr, loadVar, Sem.run_bind, hagg, sizeOf, typeInfo, hq, hs, hl]
    unfold Oper.wp execOp
    simp only [ho, hx, Sem.run_bind, Sem.run_pure, Result.andThen_ok, hrun]
    exact hK _ _ h
end
theorem ret_int {k : IntKind} {a b : Int} (h : a = b) : Ending.returned (.int k a) = .returned (.int k b) := by rw [h]

theorem wrap_nat (x : Nat) : IntKind.u64.wrap (x : Int) = ((x % 18446744073709551616 : Nat) : Int) := by rw [IntKind.wrap_u64]; omega
theorem shl_nat (x k : Nat) : IntKind.u64.wrap ((x : Int) * 2 ^ k) = ((x * 2 ^ k % 18446744073709551616 : Nat) : Int) := by
  rw [← wrap_nat]; congr 1
theorem shr_nat (x k : Nat) : (x : Int) / 2 ^ k = ((x / 2 ^ k : Nat) : Int) := by simp

/-- Numbers as cells. -/
def uc (n : Nat) : Value := .int .u64 (n : Int)
def ucs (l : List Nat) : List Value := l.map uc
theorem ucs_len (l : List Nat) : (ucs l).length = l.length := List.length_map ..
theorem ucs_one (l : List Nat) : ∀ u ∈ ucs l, u.oneCell' = true := by
  intro u hu
  obtain ⟨b, _, rfl⟩ := List.mem_map.1 hu
  rfl
theorem ucs_append (a b : List Nat) : ucs (a ++ b) = ucs a ++ ucs b := List.map_append ..
theorem ucs_get (l : List Nat) (i : Nat) : (ucs l)[i]? = l[i]?.map uc := List.getElem?_map ..

/-- What comes back is a value, and everything older is as it was. -/
def Gives (v : Value) (w : World) (e : Ending) (w' : World) : Prop := e = .returned v ∧ Below w.heap.size w w'

theorem wpList_exec {P : Program} {ops : Array Oper} {rest : List Oper} {o : Oper} {a : Act} {w w' : World} {Q : Exit → Act → World → Prop} (hgd : Region.wanted o (yielded ops a.tmps) = true) (v : Value) (hrun : (execOp a.eval o).run P w = .ok (.value v) w')
    (h : wpList P ops Q rest (a.put o.dst v) w') : wpList P ops Q (o :: rest) a w := by
  refine wpList_want hgd fun K hK => ?_
  unfold Oper.wp
  rw [hrun]
  exact hK _ _ h



/-- From w to w' everything old is as it was, but for the blocks of G. -/
structure Keeps (G : Nat → Prop) (w w' : World) : Prop where
  os : w'.os = w.os
  tape : w'.tape = w.tape
  output : w'.output = w.output
  size : w.heap.size ≤ w'.heap.size
  block : ∀ k, k < w.heap.size → ¬ G k → w'.heap[k]? = w.heap[k]?
theorem Keeps.refl (G : Nat → Prop) (w : World) : Keeps G w w := ⟨rfl, rfl, rfl, Nat.le_refl _, fun _ _ _ => rfl⟩
theorem Keeps.trans {G : Nat → Prop} {a b c : World} (h : Keeps G a b) (k : Keeps G b c) : Keeps G a c :=
  ⟨k.os.trans h.os, k.tape.trans h.tape, k.output.trans h.output, Nat.le_trans h.size k.size, fun i hi hg => (k.block i (Nat.lt_of_lt_of_le hi h.size) hg).trans (h.block i hi hg)⟩
theorem Keeps.of_below {G : Nat → Prop} {w w' : World} (h : Below w.heap.size w w') : Keeps G w w' := ⟨h.os, h.tape, h.output, h.size, fun k hk _ => h.block k hk⟩
theorem Keeps.of_grown {G : Nat → Prop} {w w' : World} {row : Option Nat} (h : w.grownBy w' row) (hg : ∀ r, row = some r → G r) : Keeps G w w' :=
  ⟨h.os, h.tape, h.output, h.size, fun k hk hn => h.block k hk (fun e => hn (hg k e.symm))⟩
theorem Keeps.drew (G : Nat → Prop) (w : World) : Keeps G w w.drew := ⟨rfl, rfl, rfl, Nat.le_refl _, fun _ _ _ => rfl⟩
theorem Keeps.drewN (G : Nat → Prop) (w : World) (n : Nat) : Keeps G w (w.drewN n) := ⟨rfl, rfl, rfl, Nat.le_refl _, fun _ _ _ => rfl⟩
theorem Keeps.below {G : Nat → Prop} {w w' : World} (h : Keeps G w w') {B : Nat} (hB : B ≤ w.heap.size) (hG : ∀ k, k < B → ¬ G k) : Below B w w' :=
  ⟨h.os, h.tape, h.output, h.size, fun k hk => h.block k (by omega) (hG k hk)⟩
theorem Keeps.cell {G : Nat → Prop} {w w' : World} (h : Keeps G w w') {b o : Nat} (hb : b < w.heap.size) (hg : ¬ G b) : w'.cell? ⟨b, o, none⟩ = w.cell? ⟨b, o, none⟩ :=
  World.cell?_of_block (a := ⟨b, o, none⟩) (h.block b hb hg)
theorem Src.keeps {G S : Nat → Prop} {w w' : World} {A : Option Addr} {n : Nat} {xs : List Value} (h : Src w S A n xs) (hk : Keeps G w w') (hS : ∀ b, S b → b < w.heap.size ∧ ¬ G b) : Src w' S A n xs :=
  h.keep (fun b _ hb => hk.cell (hS b hb).1 (hS b hb).2) fun _ hb => hb

theorem Src.below' {S : Nat → Prop} {w w' : World} {A : Option Addr} {n B : Nat} {xs : List Value} (h : Src w S A n xs) (hb : Below B w w') (hS : ∀ b, S b → b < B) : Src w' S A n xs :=
  h.keep (fun b o hk => hb.cell (p := ⟨b, o, none⟩) (hS b hk)) fun _ hk => hk
theorem Src.take_b {S : Nat → Prop} {w : World} {A : Option Addr} {n : Nat} {l : List UInt8} (h : Src w S A n (bcs l)) (k : Nat) (hk : k ≤ n) : Src w S A k (bcs (l.take k)) := by
  have := h.take_ k hk
  unfold bcs at this ⊢
  rw [List.map_take]
  exact this

section
variable {P : Program} {ops : Array Oper} {Q : Exit → Act → World → Prop} {md : Region.Mode} {R : World → World → Prop}

/-- Whatever order is picked from here on; each operation leads from a world to one that R says. -/
def wpAnyR (P : Program) (md : Region.Mode) (ops : Array Oper) (Q : Exit → Act → World → Prop) (R : World → World → Prop) : Nat → Array Bool → Act → World → Prop
  | 0, listed, a, w => Region.ready md ops listed = [] ∧ Q .normal a w
  | fuel + 1, listed, a, w =>
    (Region.ready md ops listed = [] → Q .normal a w) ∧
    ∀ i ∈ Region.ready md ops listed, wpOp P ops Q i (fun a' w' => R w w' ∧ wpAnyR P md ops Q R fuel (listed.setIfInBounds i true) a' w') a w

theorem wpAny_of_R : ∀ (fuel : Nat) (listed : Array Bool) (a : Act) (w : World), wpAnyR P md ops Q R fuel listed a w → wpAny P md ops Q fuel listed a w
  | 0, _, _, _, h => h
  | fuel + 1, _, _, _, h => ⟨h.1, fun i hi => wpOp_mono (fun a' w' h' => wpAny_of_R fuel _ a' w' h'.2) (h.2 i hi)⟩

theorem YieldsIf.weak {S S' : World → Prop} {o : Oper} {v : Value} {a : Act} (h : YieldsIf P ops S o v a) (hS : ∀ w, S' w → S w) : YieldsIf P ops S' o v a :=
  h.imp (fun ⟨hw, hv⟩ => ⟨hw, fun w h' => hv w (hS w h')⟩) id

/-- An operation whose value is the same in every world that may come may be taken first. -/
theorem wpAnyR_first (hrefl : ∀ w, R w w) (htrans : ∀ a b c, R a b → R b c → R a c) {i : Nat} {oi : Oper} {v : Value} (hi : ops[i]? = some oi)
    (hsel : ∀ (j : Nat) (o : Oper) cs b, ops[j]? = some o → o.op ≠ .select cs b) (hQ : ∀ c a w, Q (.panic c) (a.put oi.dst v) w → Q (.panic c) a w) :
    ∀ (fuel : Nat) (listed : Array Bool) (a : Act) (w : World),
      (∀ j oj, ops[j]? = some oj → j ≠ i → listed.getD j true = false → (∀ e ∈ oj.after, Region.binds md e = true → e.on ≠ i) → oi.apart ops oj = true) →
      i ∈ Region.ready md ops listed → YieldsIf P ops (R w) oi v a →
      wpAnyR P md ops Q R fuel (listed.setIfInBounds i true) (a.put oi.dst v) w → wpAnyR P md ops Q R (fuel + 1) listed a w := by
  intro fuel
  induction fuel with
  | zero =>
    intro listed a w _ hr hy H
    refine ⟨fun h => (by rw [h] at hr; cases hr), fun j hj => ?_⟩
    by_cases hji : j = i
    · subst hji
      exact hy.wpOp hi (hrefl w) ⟨hrefl w, H⟩
    · have := ready_mono hj hji
      rw [H.1] at this
      cases this
  | succ fuel ih =>
    intro listed a w hfree hr hy H
    refine ⟨fun h => (by rw [h] at hr; cases hr), fun j hj => ?_⟩
    by_cases hji : j = i
    · subst hji
      exact hy.wpOp hi (hrefl w) ⟨hrefl w, H⟩
    · have h1 := H.2 j (ready_mono hj hji)
      obtain ⟨hjun, oj, hoj, hall⟩ := mem_ready.1 hj
      have hnot : ∀ e ∈ oj.after, Region.binds md e = true → e.on ≠ i := fun e he hb heq => by
        have h1 := hall e he hb
        have h0 := (mem_ready.1 hr).1
        rw [heq] at h1
        rcases Nat.lt_or_ge i listed.size with h' | h'
        · simp [h'] at h0 h1
          rw [h0] at h1
          cases h1
        · simp [Array.getElem?_eq_none h'] at h1
      have h2 := wpOp_putIf hoj (hfree j oj hoj hji hjun hnot) (fun cs b => hsel i oi cs b hi) (fun cs b => hsel j oj cs b hoj) hQ hy h1
      have hfree' : ∀ k ok, ops[k]? = some ok → k ≠ i → (listed.setIfInBounds j true).getD k true = false →
          (∀ e ∈ ok.after, Region.binds md e = true → e.on ≠ i) → oi.apart ops ok = true := fun k ok hk hki hun hno => by
        refine hfree k ok hk hki ?_ hno
        by_cases hjk : j = k
        · subst hjk
          exact hjun
        · rw [getD_set_ne true hjk] at hun
          exact hun
      refine wpOp_mono (fun a' w' h3 => ⟨h3.2.1, ih (listed.setIfInBounds j true) a' w' hfree' (ready_mono hr (Ne.symm hji))
        (YieldsIf.weak h3.1 (fun w'' hw'' => htrans _ _ _ h3.2.1 hw'')) ?_⟩) h2
      rw [Array.setIfInBounds_comm _ _ hji]
      exact h3.2.2

variable {G : Nat → Prop} {fuel : Nat} {listed : Array Bool} {a : Act} {w : World}

/-- Number i is taken first; its value is v. -/
theorem anyTake {i : Nat} {oi : Oper} {v : Value} (hi : ops[i]? = some oi) (hs : Region.noSelect ops = true) (hf : Region.free md ops listed i = true) (hr : (Region.ready md ops listed).contains i = true)
    (hQ : ∀ c a w, Q (.panic c) (a.put oi.dst v) w → Q (.panic c) a w) (hw : Region.wanted oi (yielded ops a.tmps) = true) (hv : ∀ w', Keeps G w w' → (execOp a.eval oi).run P w' = .ok (.value v) w')
    (h : wpAnyR P md ops Q (Keeps G) fuel (listed.setIfInBounds i true) (a.put oi.dst v) w) : wpAnyR P md ops Q (Keeps G) (fuel + 1) listed a w :=
  wpAnyR_first (Keeps.refl G) (fun _ _ _ => Keeps.trans) hi (Region.noSelect_spec hs) hQ fuel listed a w (Region.free_spec hi hf) (by simpa using hr) (.inl ⟨hw, hv⟩) h
theorem anyTakeE {i : Nat} {oi : Oper} (hi : ops[i]? = some oi) (hs : Region.noSelect ops = true) (hf : Region.free md ops listed i = true) (hr : (Region.ready md ops listed).contains i = true)
    (hQ : ∀ v c a w, Q (.panic c) (a.put oi.dst v) w → Q (.panic c) a w) (hw : Region.wanted oi (yielded ops a.tmps) = true)
    (h : ∃ v, (∀ w', Keeps G w w' → (execOp a.eval oi).run P w' = .ok (.value v) w') ∧ wpAnyR P md ops Q (Keeps G) fuel (listed.setIfInBounds i true) (a.put oi.dst v) w) : wpAnyR P md ops Q (Keeps G) (fuel + 1) listed a w := by
  obtain ⟨v, hv, h⟩ := h
  exact anyTake hi hs hf hr (hQ v) hw hv h
/-- Number i is not wanted: its guard says no. -/
theorem anySkip {i : Nat} {oi : Oper} (hi : ops[i]? = some oi) (hs : Region.noSelect ops = true) (hf : Region.free md ops listed i = true) (hr : (Region.ready md ops listed).contains i = true)
    (hQ : ∀ c a w, Q (.panic c) (a.put oi.dst undef) w → Q (.panic c) a w) (hw : Region.wanted oi (yielded ops a.tmps) = false)
    (h : wpAnyR P md ops Q (Keeps G) fuel (listed.setIfInBounds i true) (a.put oi.dst undef) w) : wpAnyR P md ops Q (Keeps G) (fuel + 1) listed a w :=
  wpAnyR_first (Keeps.refl G) (fun _ _ _ => Keeps.trans) hi (Region.noSelect_spec hs) hQ fuel listed a w (Region.free_spec hi hf) (by simpa using hr) (.inr ⟨hw, rfl⟩) h
/-- Number i alone may come, and is a call. -/
theorem anyCall {i : Nat} {oi : Oper} {f : FuncId} {args : Array Value} (hi : ops[i]? = some oi) (hr : Region.ready md ops listed = [i]) (hw : Region.wanted oi (yielded ops a.tmps) = true)
    (he : (execOp a.eval oi).run P w = .ok (.enter f args) w)
    (h : Calls P f args w fun e w' => ∃ v, e = .returned v ∧ Keeps G w w' ∧ wpAnyR P md ops Q (Keeps G) fuel (listed.setIfInBounds i true) (a.put oi.dst v) w') : wpAnyR P md ops Q (Keeps G) (fuel + 1) listed a w := by
  refine ⟨fun h0 => (by rw [hr] at h0; cases h0), fun j hj => ?_⟩
  rw [hr] at hj
  obtain rfl : j = i := by simpa using hj
  unfold wpOp
  simp only [hi, hw, if_true]
  refine .inl ?_
  unfold Oper.wp
  rw [he, Oper.upon_enter]
  refine h.mono fun e w' => ?_
  rintro ⟨v, rfl, hk, hx⟩
  exact ⟨hk, hx⟩
/-- Number i alone may come, and changes the world by itself. -/
theorem anyOp {i : Nat} {oi : Oper} (hi : ops[i]? = some oi) (hr : Region.ready md ops listed = [i]) (hw : Region.wanted oi (yielded ops a.tmps) = true)
    (h : oi.wp P a w (fun a' w' => Keeps G w w' ∧ wpAnyR P md ops Q (Keeps G) fuel (listed.setIfInBounds i true) a' w') Q) : wpAnyR P md ops Q (Keeps G) (fuel + 1) listed a w := by
  refine ⟨fun h0 => (by rw [hr] at h0; cases h0), fun j hj => ?_⟩
  rw [hr] at hj
  obtain rfl : j = i := by simpa using hj
  unfold wpOp
  simp only [hi, hw, if_true]
  exact .inl h
theorem anyDone (hr : Region.ready md ops listed = []) (h : Q .normal a w) : ∀ fuel, wpAnyR P md ops Q (Keeps G) fuel listed a w
  | 0 => ⟨hr, h⟩
  | _ + 1 => ⟨fun _ => h, by rw [hr]; simp⟩
/-- A conversion, by its own run. -/
theorem exec_convert {o : Oper} {s d : TypeId} {x : Operand} {v : Value} (ho : o.op = .convert s d x) (h : (convert s d (a.eval x)).run P w = .ok v w) : (execOp a.eval o).run P w = .ok (.value v) w := by
  unfold execOp
  simp [ho, h]
/-- append, as one operation. -/
theorem wp_app {o : Oper} {K : Act → World → Prop} (s x : Operand) (t : TypeId) (ho : o.op = .call { callee := .builtin .append, args := #[s, x], argTypes := #[t, t] })
    (base : Nat) (e : TypeId) (i : TypeInfo) (z : Value) (bytes : Nat) (ht : P.underlying t = some (.slice e)) (hi : P.info? e = some i) (hz : i.zero = some z)
    (hsize : i.size = 1) (hby : i.bytes = bytes) (hzs : z.cells.size = 1) (v : Value) (n : Nat) (xs : List Value) (hv : a.eval s = v) (hown : w.ownsRow base e 1 v n xs)
    (S : Nat → Prop) (A : Option Addr) (m c : Nat) (ys : List Value) (hx : a.eval x = .slice A m c) (hs : Src w S A m ys) (h1 : ∀ u ∈ ys, u.oneCell' = true)
    (h63 : n + m ≤ maxLen) (hbytes : (n + m) * bytes ≤ 140737488355328) (hbase : base ≤ w.heap.size)
    (h : ∀ v' w', w'.ownsRow base e 1 v' (n + m) (xs ++ ys) → w.grownBy w' v.ownBlock → K (a.put o.dst v') w') : o.wp P a w K Q := by
  obtain ⟨v', w', hrun, h2, h3, h4⟩ := run_app (P := P) w base t o.type e i z bytes ht hi hz hsize hby hzs v n xs hown S A m c ys hs h1 h63 hbytes hbase
  unfold Oper.wp execOp
  simp only [ho, resolve, invoke, builtin, Sem.run_bind, Sem.run_pure, Result.andThen_ok, List.map_toArray, List.map_cons, List.map_nil, hv, hx, hrun]
  exact h v' w' h2 h3
/-- A whole array loaded. -/
theorem exec_load {o : Oper} (ty : TypeId) (x : Operand) (ho : o.op = .load ty x) (b off : Nat) (hx : a.eval x = .pointer (some ⟨b, off, none⟩))
    (xs : List Value) (hc : ∀ i u, xs[i]? = some u → w.cell? ⟨b, off + i, none⟩ = some u) (d : TypeDesc) (hu : P.underlying ty = some d) (hd : (match d with | .struct _ | .array _ _ => true | _ => false) = true)
    (hi : (P.info? ty).map (·.size) = some xs.length) : (execOp a.eval o).run P w = .ok (.value (.agg xs.toArray)) w := by
  cases hq : P.info? ty with
  | none => simp [hq] at hi
  | some i =>
    have hs : i.size = xs.length := by simpa [hq] using hi
    have hl : (loadCells ⟨b, off, none⟩ xs.length).run P w = .ok xs.toArray w :=
      run_loadCells_list (P := P) w ⟨b, off, none⟩ xs (fun j v hv => by
        have hadd : (⟨b, off, none⟩ : Addr).add j = ⟨b, off + j, none⟩ := by unfold Addr.add; split <;> simp_all
        rw [hadd]
        exact hc j v hv)
    have hagg : (isAgg ty).run P w = .ok true w := by
      unfold isAgg
      rw [Sem.run_bind, run_underlying hu w]
      cases d <;> simp_all
    have hrun : (Instr.loadAt ty (.pointer (some ⟨b, off, none⟩))).run P w = .ok (.agg xs.toArray) w := by
      simp [Instr.loadAt, Instr.sureAddr, loadVar, Sem.run_bind, hagg, sizeOf, typeInfo, hq, hs, hl]
    unfold execOp
    simp only [ho, hx, Sem.run_bind, Sem.run_pure, Result.andThen_ok, hrun]
/-- The beginning. -/
theorem anyStart (G : Nat → Prop) {id : Nat} (hm : P.follows .mixedOrders = true) (h : wpAnyR P .any ops Q (Keeps G) ops.size (Array.replicate ops.size false) a w.drew) : (Code.region id ops true).wp P Q a w :=
  wp_region_any hm (wpAny_of_R _ _ _ _ h)
end
theorem below_alloc (w : World) (o : Obj) : Below w.heap.size w (w.alloc o) := (Below.refl _ w).alloc (Nat.le_refl _) _
section
variable {P : Program} {ops : Array Oper} {Q : Exit → Act → World → Prop} {md : Region.Mode} {R : World → World → Prop} {fuel : Nat} {listed : Array Bool} {a : Act} {w : World}
/-- Each that may come. -/
theorem anyEach (L : List Nat) (hr : Region.ready md ops listed = L) (hL : L ≠ [])
    (h : ∀ i ∈ L, wpOp P ops Q i (fun a' w' => R w w' ∧ wpAnyR P md ops Q R fuel (listed.setIfInBounds i true) a' w') a w) : wpAnyR P md ops Q R (fuel + 1) listed a w :=
  ⟨fun h0 => absurd (hr.symm.trans h0) hL, fun i hi => h i (by rw [← hr]; exact hi)⟩
theorem wpOp_call {i : Nat} {oi : Oper} {f : FuncId} {args : Array Value} {K : Act → World → Prop} (hi : ops[i]? = some oi) (hw : Region.wanted oi (yielded ops a.tmps) = true)
    (he : (execOp a.eval oi).run P w = .ok (.enter f args) w) (h : Calls P f args w fun e w' => ∃ v, e = .returned v ∧ K (a.put oi.dst v) w') : wpOp P ops Q i K a w := by
  unfold wpOp
  simp only [hi, hw, if_true]
  refine .inl ?_
  unfold Oper.wp
  rw [he, Oper.upon_enter]
  refine h.mono fun e w' => ?_
  rintro ⟨v, rfl, hx⟩
  exact hx
theorem wpOp_value {i : Nat} {oi : Oper} {v : Value} {w' : World} {K : Act → World → Prop} (hi : ops[i]? = some oi) (hw : Region.wanted oi (yielded ops a.tmps) = true)
    (he : (execOp a.eval oi).run P w = .ok (.value v) w') (h : K (a.put oi.dst v) w') : wpOp P ops Q i K a w := by
  unfold wpOp
  simp only [hi, hw, if_true]
  refine .inl ?_
  unfold Oper.wp
  rw [he]
  exact h
theorem exec_alloc {o : Oper} (elem : TypeId) (ho : o.op = .alloc elem) (z : Value) (hz : ∀ w, (zeroValue elem).run P w = .ok z w) (w : World) :
    (execOp a.eval o).run P w = .ok (.value (.pointer (some ⟨w.heap.size, 0, none⟩))) (w.alloc (.cells z.cells elem)) := by
  have hrun : (Instr.alloc elem true (.tuple #[])).run P w = .ok (.pointer (some ⟨w.heap.size, 0, none⟩)) (w.alloc (.cells z.cells elem)) := by
    simp [Instr.alloc, hz, newVar, newRow]
  unfold execOp
  simp only [ho, Sem.run_bind, Sem.run_pure, Result.andThen_ok, hrun]
/-- A whole array stored over a whole row. -/
theorem exec_store_all {o : Oper} (ty : TypeId) (p x : Operand) (ho : o.op = .store ty p x) (g : Nat) (hp : a.eval p = .pointer (some ⟨g, 0, none⟩)) (cs : Array Value) (hx : a.eval x = .agg cs)
    (t : TypeId) (cur : Array Value) (hg : w.heap[g]? = some (.cells cur t (0, 0))) (hi : (P.info? ty).map (·.size) = some cs.size) (hfit : cs.size = cur.size) (h1 : ∀ u ∈ cs.toList, u.oneCell' = true) :
    ∃ w', (execOp a.eval o).run P w = .ok .skip w' ∧ w'.heap[g]? = some (.cells cs t (0, 0)) ∧ w.grownBy w' (some g) ∧ w'.heap.size = w.heap.size := by
  cases hq : P.info? ty with
  | none => simp [hq] at hi
  | some i =>
    have hs : i.size = cs.size := by simpa [hq] using hi
    have hst := run_storeCells_at P g 0 t cs.toList 0 cur w hg (by simp; omega) h1
    simp only [Nat.add_zero, Array.length_toList] at hst
    have hrun : (Instr.storeAt ty (.pointer (some ⟨g, 0, none⟩)) (.agg cs)).run P w = .ok () (w.setRow g (cur.toList.take 0 ++ cs.toList ++ cur.toList.drop (0 + cs.size)).toArray) := by
      simp [Instr.storeAt, Instr.sureAddr, storeVar, sizeOf, typeInfo, hq, hs, Value.cells, hst]
    have he : (cur.toList.take 0 ++ cs.toList ++ cur.toList.drop (0 + cs.size)).toArray = cs := by
      simp [hfit, List.drop_of_length_le]
    rw [he] at hrun
    refine ⟨w.setRow g cs, ?_, setRow_heap w g cur _ t _ hg, setRow_grown w g _, by simp⟩
    unfold execOp
    simp only [ho, hp, hx, Sem.run_bind, Sem.run_pure, Result.andThen_ok, hrun]
end



section
variable {P : Program} {ops : Array Oper} {Q : Exit → Act → World → Prop} {md : Region.Mode} {W : Nat → Bool} {lo : Nat}

/-- Does number j wait for number i itself? -/
def waits (md : Region.Mode) (ops : Array Oper) (j i : Nat) : Bool :=
  match ops[j]? with
  | some oj => oj.after.toList.any fun e => Region.binds md e && (e.on == i)
  | none => false
theorem waits_not {j i : Nat} {oj : Oper} {listed : Array Bool} (hj : ops[j]? = some oj) (hw : waits md ops j i = true) (hr : j ∈ Region.ready md ops listed) (hi : i ∈ Region.ready md ops listed) : False := by
  obtain ⟨_, o', ho', hall⟩ := mem_ready.1 hr
  obtain rfl : oj = o' := Option.some.inj (hj.symm.trans ho')
  unfold waits at hw
  simp only [hj] at hw
  obtain ⟨e, he, hb⟩ := List.any_eq_true.1 hw
  simp only [Bool.and_eq_true, beq_iff_eq] at hb
  have h1 := hall e (by simpa using he) hb.1
  have h0 := (mem_ready.1 hi).1
  rw [hb.2] at h1
  rcases Nat.lt_or_ge i listed.size with h' | h'
  · simp [h'] at h0 h1
    rw [h0] at h1
    cases h1
  · simp [Array.getElem?_eq_none h'] at h1

/-- Whatever order is picked from here on; an operation outside W leaves all that is old as it was. -/
def wpAnyW (P : Program) (md : Region.Mode) (ops : Array Oper) (Q : Exit → Act → World → Prop) (W : Nat → Bool) (lo : Nat) : Nat → Array Bool → Act → World → Prop
  | 0, listed, a, w => Region.ready md ops listed = [] ∧ Q .normal a w
  | fuel + 1, listed, a, w =>
    (Region.ready md ops listed = [] → Q .normal a w) ∧
    ∀ i ∈ Region.ready md ops listed, wpOp P ops Q i (fun a' w' => (W i = false → Below lo w w') ∧ wpAnyW P md ops Q W lo fuel (listed.setIfInBounds i true) a' w') a w

theorem wpAny_of_W : ∀ (fuel : Nat) (listed : Array Bool) (a : Act) (w : World), wpAnyW P md ops Q W lo fuel listed a w → wpAny P md ops Q fuel listed a w
  | 0, _, _, _, h => h
  | fuel + 1, _, _, _, h => ⟨h.1, fun i hi => wpOp_mono (fun a' w' h' => wpAny_of_W fuel _ a' w' h'.2) (h.2 i hi)⟩

theorem wpAnyW_first {i : Nat} {oi : Oper} {v : Value} (hi : ops[i]? = some oi) (hWi : W i = false) (hW : ∀ j oj, ops[j]? = some oj → W j = true → waits md ops j i = true)
    (hsel : ∀ (j : Nat) (o : Oper) cs b, ops[j]? = some o → o.op ≠ .select cs b) (hQ : ∀ c a w, Q (.panic c) (a.put oi.dst v) w → Q (.panic c) a w) :
    ∀ (fuel : Nat) (listed : Array Bool) (a : Act) (w : World),
      (∀ j oj, ops[j]? = some oj → j ≠ i → listed.getD j true = false → (∀ e ∈ oj.after, Region.binds md e = true → e.on ≠ i) → oi.apart ops oj = true) →
      i ∈ Region.ready md ops listed → YieldsIf P ops (fun w' => Below lo w w') oi v a →
      wpAnyW P md ops Q W lo fuel (listed.setIfInBounds i true) (a.put oi.dst v) w → wpAnyW P md ops Q W lo (fuel + 1) listed a w := by
  intro fuel
  induction fuel with
  | zero =>
    intro listed a w _ hr hy H
    refine ⟨fun h => (by rw [h] at hr; cases hr), fun j hj => ?_⟩
    by_cases hji : j = i
    · subst hji
      exact hy.wpOp hi (Below.refl _ w) ⟨fun _ => Below.refl _ w, H⟩
    · have := ready_mono hj hji
      rw [H.1] at this
      cases this
  | succ fuel ih =>
    intro listed a w hfree hr hy H
    refine ⟨fun h => (by rw [h] at hr; cases hr), fun j hj => ?_⟩
    by_cases hji : j = i
    · subst hji
      exact hy.wpOp hi (Below.refl _ w) ⟨fun _ => Below.refl _ w, H⟩
    · have h1 := H.2 j (ready_mono hj hji)
      obtain ⟨hjun, oj, hoj, hall⟩ := mem_ready.1 hj
      have hWj : W j = false := by
        cases hw : W j with
        | false => rfl
        | true => exact absurd (waits_not hoj (hW j oj hoj hw) hj hr) id
      have hnot : ∀ e ∈ oj.after, Region.binds md e = true → e.on ≠ i := fun e he hb heq => by
        have h1 := hall e he hb
        have h0 := (mem_ready.1 hr).1
        rw [heq] at h1
        rcases Nat.lt_or_ge i listed.size with h' | h'
        · simp [h'] at h0 h1
          rw [h0] at h1
          cases h1
        · simp [Array.getElem?_eq_none h'] at h1
      have h2 := wpOp_putIf hoj (hfree j oj hoj hji hjun hnot) (fun cs b => hsel i oi cs b hi) (fun cs b => hsel j oj cs b hoj) hQ hy h1
      have hfree' : ∀ k ok, ops[k]? = some ok → k ≠ i → (listed.setIfInBounds j true).getD k true = false →
          (∀ e ∈ ok.after, Region.binds md e = true → e.on ≠ i) → oi.apart ops ok = true := fun k ok hk hki hun hno => by
        refine hfree k ok hk hki ?_ hno
        by_cases hjk : j = k
        · subst hjk
          exact hjun
        · rw [getD_set_ne true hjk] at hun
          exact hun
      refine wpOp_mono (fun a' w' h3 => ⟨h3.2.1, ih (listed.setIfInBounds j true) a' w' hfree' (ready_mono hr (Ne.symm hji))
        (YieldsIf.weak h3.1 (fun w'' hw'' => (h3.2.1 hWj).trans hw'')) ?_⟩) h2
      rw [Array.setIfInBounds_comm _ _ hji]
      exact h3.2.2

theorem wpAnyW_firstA {i : Nat} {oi : Oper} {v : Value} (hi : ops[i]? = some oi) (hsel : ∀ (j : Nat) (o : Oper) cs b, ops[j]? = some o → o.op ≠ .select cs b) (hQ : ∀ c a w, Q (.panic c) (a.put oi.dst v) w → Q (.panic c) a w) :
    ∀ (fuel : Nat) (listed : Array Bool) (a : Act) (w : World),
      (∀ j oj, ops[j]? = some oj → j ≠ i → listed.getD j true = false → (∀ e ∈ oj.after, Region.binds md e = true → e.on ≠ i) → oi.apart ops oj = true) →
      i ∈ Region.ready md ops listed → YieldsIf P ops (fun _ => True) oi v a →
      wpAnyW P md ops Q W lo fuel (listed.setIfInBounds i true) (a.put oi.dst v) w → wpAnyW P md ops Q W lo (fuel + 1) listed a w := by
  intro fuel
  induction fuel with
  | zero =>
    intro listed a w _ hr hy H
    refine ⟨fun h => (by rw [h] at hr; cases hr), fun j hj => ?_⟩
    by_cases hji : j = i
    · subst hji
      exact hy.wpOp hi trivial ⟨fun _ => Below.refl _ w, H⟩
    · have := ready_mono hj hji
      rw [H.1] at this
      cases this
  | succ fuel ih =>
    intro listed a w hfree hr hy H
    refine ⟨fun h => (by rw [h] at hr; cases hr), fun j hj => ?_⟩
    by_cases hji : j = i
    · subst hji
      exact hy.wpOp hi trivial ⟨fun _ => Below.refl _ w, H⟩
    · have h1 := H.2 j (ready_mono hj hji)
      obtain ⟨hjun, oj, hoj, hall⟩ := mem_ready.1 hj
      have hnot : ∀ e ∈ oj.after, Region.binds md e = true → e.on ≠ i := fun e he hb heq => by
        have h1 := hall e he hb
        have h0 := (mem_ready.1 hr).1
        rw [heq] at h1
        rcases Nat.lt_or_ge i listed.size with h' | h'
        · simp [h'] at h0 h1
          rw [h0] at h1
          cases h1
        · simp [Array.getElem?_eq_none h'] at h1
      have h2 := wpOp_putIf hoj (hfree j oj hoj hji hjun hnot) (fun cs b => hsel i oi cs b hi) (fun cs b => hsel j oj cs b hoj) hQ hy h1
      have hfree' : ∀ k ok, ops[k]? = some ok → k ≠ i → (listed.setIfInBounds j true).getD k true = false →
          (∀ e ∈ ok.after, Region.binds md e = true → e.on ≠ i) → oi.apart ops ok = true := fun k ok hk hki hun hno => by
        refine hfree k ok hk hki ?_ hno
        by_cases hjk : j = k
        · subst hjk
          exact hjun
        · rw [getD_set_ne true hjk] at hun
          exact hun
      refine wpOp_mono (fun a' w' h3 => ⟨h3.2.1, ih (listed.setIfInBounds j true) a' w' hfree' (ready_mono hr (Ne.symm hji))
        h3.1 ?_⟩) h2
      rw [Array.setIfInBounds_comm _ _ hji]
      exact h3.2.2

variable {fuel : Nat} {listed : Array Bool} {a : Act} {w : World}
/-- The operations of W all wait for number i. -/
def allWait (md : Region.Mode) (ops : Array Oper) (W : Nat → Bool) (i : Nat) : Bool := !W i && (List.range ops.size).all fun j => !W j || waits md ops j i
theorem allWait_spec {i : Nat} (h : allWait md ops W i = true) : W i = false ∧ ∀ j oj, ops[j]? = some oj → W j = true → waits md ops j i = true := by
  simp only [allWait, Bool.and_eq_true, Bool.not_eq_true'] at h
  refine ⟨h.1, fun j oj hj hw => ?_⟩
  have := List.all_eq_true.1 h.2 j (List.mem_range.2 (Array.getElem?_eq_some_iff.1 hj).1)
  simpa [hw] using this

theorem takeW {i : Nat} {oi : Oper} (v : Value) (hi : ops[i]? = some oi) (ha : allWait md ops W i = true) (hs : Region.noSelect ops = true) (hf : Region.free md ops listed i = true) (hr : (Region.ready md ops listed).contains i = true)
    (hQ : ∀ c a w, Q (.panic c) (a.put oi.dst v) w → Q (.panic c) a w) (hw : Region.wanted oi (yielded ops a.tmps) = true) (hv : ∀ w', Below lo w w' → (execOp a.eval oi).run P w' = .ok (.value v) w')
    (h : wpAnyW P md ops Q W lo fuel (listed.setIfInBounds i true) (a.put oi.dst v) w) : wpAnyW P md ops Q W lo (fuel + 1) listed a w :=
  wpAnyW_first hi (allWait_spec ha).1 (allWait_spec ha).2 (Region.noSelect_spec hs) hQ fuel listed a w (Region.free_spec hi hf) (by simpa using hr) (.inl ⟨hw, hv⟩) h
theorem takeWE {i : Nat} {oi : Oper} (hi : ops[i]? = some oi) (ha : allWait md ops W i = true) (hs : Region.noSelect ops = true) (hf : Region.free md ops listed i = true) (hr : (Region.ready md ops listed).contains i = true)
    (hQ : ∀ v c a w, Q (.panic c) (a.put oi.dst v) w → Q (.panic c) a w) (hw : Region.wanted oi (yielded ops a.tmps) = true)
    (h : ∃ v, (∀ w', Below lo w w' → (execOp a.eval oi).run P w' = .ok (.value v) w') ∧ wpAnyW P md ops Q W lo fuel (listed.setIfInBounds i true) (a.put oi.dst v) w) : wpAnyW P md ops Q W lo (fuel + 1) listed a w := by
  obtain ⟨v, hv, h⟩ := h
  exact takeW v hi ha hs hf hr (hQ v) hw hv h
/-- A value that hangs on no memory. -/
theorem takeAE {i : Nat} {oi : Oper} (hi : ops[i]? = some oi) (hs : Region.noSelect ops = true) (hf : Region.free md ops listed i = true) (hr : (Region.ready md ops listed).contains i = true)
    (hQ : ∀ v c a w, Q (.panic c) (a.put oi.dst v) w → Q (.panic c) a w) (hw : Region.wanted oi (yielded ops a.tmps) = true)
    (h : ∃ v, (∀ w', (execOp a.eval oi).run P w' = .ok (.value v) w') ∧ wpAnyW P md ops Q W lo fuel (listed.setIfInBounds i true) (a.put oi.dst v) w) : wpAnyW P md ops Q W lo (fuel + 1) listed a w := by
  obtain ⟨v, hv, h⟩ := h
  exact wpAnyW_firstA hi (Region.noSelect_spec hs) (hQ v) fuel listed a w (Region.free_spec hi hf) (by simpa using hr) (.inl ⟨hw, fun w' _ => hv w'⟩) h
/-- Number i alone may come, and is a call. -/
theorem callW {i : Nat} {oi : Oper} {f : FuncId} {args : Array Value} (hi : ops[i]? = some oi) (hr : Region.ready md ops listed = [i]) (hw : Region.wanted oi (yielded ops a.tmps) = true)
    (he : (execOp a.eval oi).run P w = .ok (.enter f args) w)
    (h : Calls P f args w fun e w' => ∃ v, e = .returned v ∧ (W i = false → Below lo w w') ∧ wpAnyW P md ops Q W lo fuel (listed.setIfInBounds i true) (a.put oi.dst v) w') : wpAnyW P md ops Q W lo (fuel + 1) listed a w := by
  refine ⟨fun h0 => (by rw [hr] at h0; cases h0), fun j hj => ?_⟩
  rw [hr] at hj
  obtain rfl : j = i := by simpa using hj
  exact wpOp_call hi hw he h
/-- Number i alone may come, and yields a value. -/
theorem opW {i : Nat} {oi : Oper} (v : Value) (w' : World) (hi : ops[i]? = some oi) (hr : Region.ready md ops listed = [i]) (hw : Region.wanted oi (yielded ops a.tmps) = true)
    (he : (execOp a.eval oi).run P w = .ok (.value v) w') (hb : W i = false → Below lo w w') (h : wpAnyW P md ops Q W lo fuel (listed.setIfInBounds i true) (a.put oi.dst v) w') : wpAnyW P md ops Q W lo (fuel + 1) listed a w := by
  refine ⟨fun h0 => (by rw [hr] at h0; cases h0), fun j hj => ?_⟩
  rw [hr] at hj
  obtain rfl : j = i := by simpa using hj
  exact wpOp_value hi hw he ⟨hb, h⟩
/-- Number i alone may come, and stores. -/
theorem storeW {i : Nat} {oi : Oper} (w' : World) (hi : ops[i]? = some oi) (hr : Region.ready md ops listed = [i]) (hw : Region.wanted oi (yielded ops a.tmps) = true)
    (he : (execOp a.eval oi).run P w = .ok .skip w') (hb : W i = false → Below lo w w') (h : wpAnyW P md ops Q W lo fuel (listed.setIfInBounds i true) (a.put oi.dst undef) w') : wpAnyW P md ops Q W lo (fuel + 1) listed a w := by
  refine ⟨fun h0 => (by rw [hr] at h0; cases h0), fun j hj => ?_⟩
  rw [hr] at hj
  obtain rfl : j = i := by simpa using hj
  unfold wpOp
  simp only [hi, hw, if_true]
  refine .inl ?_
  unfold Oper.wp
  rw [he]
  exact ⟨hb, h⟩
theorem storeW_all {i : Nat} {oi : Oper} (hi : ops[i]? = some oi) (hr : Region.ready md ops listed = [i]) (hw : Region.wanted oi (yielded ops a.tmps) = true)
    (ty : TypeId) (p x : Operand) (ho : oi.op = .store ty p x) (g : Nat) (hp : a.eval p = .pointer (some ⟨g, 0, none⟩)) (cs : Array Value) (hx : a.eval x = .agg cs)
    (t : TypeId) (cur : Array Value) (hg : w.heap[g]? = some (.cells cur t (0, 0))) (hsz : (P.info? ty).map (·.size) = some cs.size) (hfit : cs.size = cur.size) (h1 : ∀ u ∈ cs.toList, u.oneCell' = true) (hW : W i = true)
    (h : ∀ w', w'.heap[g]? = some (.cells cs t (0, 0)) → w.grownBy w' (some g) → w'.heap.size = w.heap.size → wpAnyW P md ops Q W lo fuel (listed.setIfInBounds i true) (a.put oi.dst undef) w') : wpAnyW P md ops Q W lo (fuel + 1) listed a w := by
  obtain ⟨w', h2, h3, h4, h5⟩ := exec_store_all (P := P) (a := a) (w := w) (o := oi) ty p x ho g hp cs hx t cur hg hsz hfit h1
  exact storeW w' hi hr hw h2 (fun h => by rw [hW] at h; cases h) (h w' h3 h4 h5)
theorem doneW (hr : Region.ready md ops listed = []) (h : Q .normal a w) : ∀ fuel, wpAnyW P md ops Q W lo fuel listed a w
  | 0 => ⟨hr, h⟩
  | _ + 1 => ⟨fun _ => h, by rw [hr]; simp⟩
theorem startW (W : Nat → Bool) (lo : Nat) {id : Nat} (hm : P.follows .mixedOrders = true) (h : wpAnyW P .any ops Q W lo ops.size (Array.replicate ops.size false) a w.drew) : (Code.region id ops true).wp P Q a w :=
  wp_region_any hm (wpAny_of_W _ _ _ _ h)
end


section
variable {P : Program} {ops : Array Oper} {Q : Exit → Act → World → Prop} {md : Region.Mode} {W : Nat → Bool} {lo : Nat}
/-- Does number j wait for number i, directly or by way of others? -/
def waitsT (md : Region.Mode) (ops : Array Oper) : Nat → Nat → Nat → Bool
  | 0, j, i => waits md ops j i
  | f + 1, j, i => waits md ops j i || (List.range ops.size).any fun k => waits md ops j k && waitsT md ops f k i
def Deps (md : Region.Mode) (ops : Array Oper) (listed : Array Bool) (j : Nat) : Prop := ∃ o, ops[j]? = some o ∧ ∀ e ∈ o.after, Region.binds md e = true → listed.getD e.on false = true
def Closed (md : Region.Mode) (ops : Array Oper) (listed : Array Bool) : Prop := ∀ k o, ops[k]? = some o → listed.getD k false = true → ∀ e ∈ o.after, Region.binds md e = true → listed.getD e.on false = true
def closedB (md : Region.Mode) (ops : Array Oper) (listed : Array Bool) : Bool := (List.range ops.size).all fun k => !listed.getD k false || (match ops[k]? with | some o => o.after.toList.all fun e => !Region.binds md e || listed.getD e.on false | none => true)
theorem closedB_spec {listed : Array Bool} (h : closedB md ops listed = true) : Closed md ops listed := by
  intro k o ho hk e he hb
  have := List.all_eq_true.1 h k (List.mem_range.2 (Array.getElem?_eq_some_iff.1 ho).1)
  simp only [ho, hk, Bool.not_true, Bool.false_or] at this
  have := List.all_eq_true.1 this e (by simpa using he)
  simpa [hb] using this
theorem Closed.next {listed : Array Bool} (h : Closed md ops listed) {j : Nat} (hj : j ∈ Region.ready md ops listed) : Closed md ops (listed.setIfInBounds j true) := by
  intro k o ho hk e he hb
  by_cases hkj : j = k
  · subst hkj
    obtain ⟨_, o', ho', hall⟩ := mem_ready.1 hj
    obtain rfl : o = o' := Option.some.inj (ho.symm.trans ho')
    exact getD_set_true (hall e he hb)
  · rw [getD_set_ne false hkj] at hk
    exact getD_set_true (h k o ho hk e he hb)
theorem waits_listed {listed : Array Bool} {j i : Nat} (hd : Deps md ops listed j) (hw : waits md ops j i = true) : listed.getD i false = true := by
  obtain ⟨o, ho, hall⟩ := hd
  unfold waits at hw
  simp only [ho] at hw
  obtain ⟨e, he, hb⟩ := List.any_eq_true.1 hw
  simp only [Bool.and_eq_true, beq_iff_eq] at hb
  rw [← hb.2]
  exact hall e (by simpa using he) hb.1
theorem waits_some {j i : Nat} (hw : waits md ops j i = true) : ∃ o, ops[j]? = some o := by
  unfold waits at hw
  cases h : ops[j]? with
  | none => simp [h] at hw
  | some o => exact ⟨o, rfl⟩
theorem waitsT_some {j i : Nat} : ∀ f, waitsT md ops f j i = true → ∃ o, ops[j]? = some o
  | 0, h => waits_some h
  | f + 1, h => by
    simp only [waitsT, Bool.or_eq_true] at h
    rcases h with h | h
    · exact waits_some h
    · obtain ⟨k, _, hk⟩ := List.any_eq_true.1 h
      simp only [Bool.and_eq_true] at hk
      exact waits_some hk.1
theorem waitsT_listed {listed : Array Bool} (hc : Closed md ops listed) {i : Nat} : ∀ (f j : Nat), Deps md ops listed j → waitsT md ops f j i = true → listed.getD i false = true
  | 0, j, hd, h => waits_listed hd h
  | f + 1, j, hd, h => by
    simp only [waitsT, Bool.or_eq_true] at h
    rcases h with h | h
    · exact waits_listed hd h
    · obtain ⟨k, _, hk⟩ := List.any_eq_true.1 h
      simp only [Bool.and_eq_true] at hk
      obtain ⟨o, ho⟩ := waitsT_some f hk.2
      exact waitsT_listed hc f k ⟨o, ho, hc k o ho (waits_listed hd hk.1)⟩ hk.2
theorem ready_not_listed {listed : Array Bool} {i : Nat} (hr : i ∈ Region.ready md ops listed) (h : listed.getD i false = true) : False := by
  have h0 := (mem_ready.1 hr).1
  rcases Nat.lt_or_ge i listed.size with h' | h'
  · simp [h'] at h0 h
    rw [h0] at h
    cases h
  · simp [Array.getElem?_eq_none h'] at h
theorem wpAnyW_firstT {F : Nat} {i : Nat} {oi : Oper} {v : Value} (hi : ops[i]? = some oi) (hWi : W i = false) (hW : ∀ j oj, ops[j]? = some oj → W j = true → waitsT md ops F j i = true)
    (hsel : ∀ (j : Nat) (o : Oper) cs b, ops[j]? = some o → o.op ≠ .select cs b) (hQ : ∀ c a w, Q (.panic c) (a.put oi.dst v) w → Q (.panic c) a w) :
    ∀ (fuel : Nat) (listed : Array Bool) (a : Act) (w : World), Closed md ops listed →
      (∀ j oj, ops[j]? = some oj → j ≠ i → listed.getD j true = false → (∀ e ∈ oj.after, Region.binds md e = true → e.on ≠ i) → oi.apart ops oj = true) →
      i ∈ Region.ready md ops listed → YieldsIf P ops (fun w' => Below lo w w') oi v a →
      wpAnyW P md ops Q W lo fuel (listed.setIfInBounds i true) (a.put oi.dst v) w → wpAnyW P md ops Q W lo (fuel + 1) listed a w := by
  intro fuel
  induction fuel with
  | zero =>
    intro listed a w _ _ hr hy H
    refine ⟨fun h => (by rw [h] at hr; cases hr), fun j hj => ?_⟩
    by_cases hji : j = i
    · subst hji
      exact hy.wpOp hi (Below.refl _ w) ⟨fun _ => Below.refl _ w, H⟩
    · have := ready_mono hj hji
      rw [H.1] at this
      cases this
  | succ fuel ih =>
    intro listed a w hcl hfree hr hy H
    refine ⟨fun h => (by rw [h] at hr; cases hr), fun j hj => ?_⟩
    by_cases hji : j = i
    · subst hji
      exact hy.wpOp hi (Below.refl _ w) ⟨fun _ => Below.refl _ w, H⟩
    · have h1 := H.2 j (ready_mono hj hji)
      obtain ⟨hjun, oj, hoj, hall⟩ := mem_ready.1 hj
      have hWj : W j = false := by
        cases hw : W j with
        | false => rfl
        | true => exact absurd (waitsT_listed hcl F j ⟨oj, hoj, hall⟩ (hW j oj hoj hw)) (fun h => ready_not_listed hr h)
      have hnot : ∀ e ∈ oj.after, Region.binds md e = true → e.on ≠ i := fun e he hb heq => by
        have h1 := hall e he hb
        rw [heq] at h1
        exact ready_not_listed hr h1
      have h2 := wpOp_putIf hoj (hfree j oj hoj hji hjun hnot) (fun cs b => hsel i oi cs b hi) (fun cs b => hsel j oj cs b hoj) hQ hy h1
      have hfree' : ∀ k ok, ops[k]? = some ok → k ≠ i → (listed.setIfInBounds j true).getD k true = false →
          (∀ e ∈ ok.after, Region.binds md e = true → e.on ≠ i) → oi.apart ops ok = true := fun k ok hk hki hun hno => by
        refine hfree k ok hk hki ?_ hno
        by_cases hjk : j = k
        · subst hjk
          exact hjun
        · rw [getD_set_ne true hjk] at hun
          exact hun
      refine wpOp_mono (fun a' w' h3 => ⟨h3.2.1, ih (listed.setIfInBounds j true) a' w' (hcl.next hj) hfree' (ready_mono hr (Ne.symm hji))
        (YieldsIf.weak h3.1 (fun w'' hw'' => (h3.2.1 hWj).trans hw'')) ?_⟩) h2
      rw [Array.setIfInBounds_comm _ _ hji]
      exact h3.2.2

variable {fuel : Nat} {listed : Array Bool} {a : Act} {w : World}
def allWaitT (md : Region.Mode) (ops : Array Oper) (W : Nat → Bool) (i : Nat) : Bool := !W i && (List.range ops.size).all fun j => !W j || waitsT md ops 2 j i
theorem allWaitT_spec {i : Nat} (h : allWaitT md ops W i = true) : W i = false ∧ ∀ j oj, ops[j]? = some oj → W j = true → waitsT md ops 2 j i = true := by
  simp only [allWaitT, Bool.and_eq_true, Bool.not_eq_true'] at h
  refine ⟨h.1, fun j oj hj hw => ?_⟩
  have := List.all_eq_true.1 h.2 j (List.mem_range.2 (Array.getElem?_eq_some_iff.1 hj).1)
  simpa [hw] using this
theorem takeT {i : Nat} {oi : Oper} (v : Value) (hi : ops[i]? = some oi) (hc : closedB md ops listed = true) (ha : allWaitT md ops W i = true) (hs : Region.noSelect ops = true) (hf : Region.free md ops listed i = true) (hr : (Region.ready md ops listed).contains i = true)
    (hQ : ∀ c a w, Q (.panic c) (a.put oi.dst v) w → Q (.panic c) a w) (hw : Region.wanted oi (yielded ops a.tmps) = true) (hv : ∀ w', Below lo w w' → (execOp a.eval oi).run P w' = .ok (.value v) w')
    (h : wpAnyW P md ops Q W lo fuel (listed.setIfInBounds i true) (a.put oi.dst v) w) : wpAnyW P md ops Q W lo (fuel + 1) listed a w :=
  wpAnyW_firstT hi (allWaitT_spec ha).1 (allWaitT_spec ha).2 (Region.noSelect_spec hs) hQ fuel listed a w (closedB_spec hc) (Region.free_spec hi hf) (by simpa using hr) (.inl ⟨hw, hv⟩) h
end
theorem eachW {P : Program} {ops : Array Oper} {Q : Exit → Act → World → Prop} {md : Region.Mode} {W : Nat → Bool} {lo fuel : Nat} {listed : Array Bool} {a : Act} {w : World} (L : List Nat) (hr : Region.ready md ops listed = L) (hL : L ≠ [])
    (h : ∀ i ∈ L, wpOp P ops Q i (fun a' w' => (W i = false → Below lo w w') ∧ wpAnyW P md ops Q W lo fuel (listed.setIfInBounds i true) a' w') a w) : wpAnyW P md ops Q W lo (fuel + 1) listed a w :=
  ⟨fun h0 => absurd (hr.symm.trans h0) hL, fun i hi => h i (by rw [← hr]; exact hi)⟩
theorem two_ways {P : Nat → Prop} {i j : Nat} (hi : P i) (hj : P j) : ∀ k ∈ [i, j], P k := by
  intro k hk
  simp only [List.mem_cons, List.not_mem_nil, or_false] at hk
  rcases hk with rfl | rfl
  · exact hi
  · exact hj
theorem mapM_some {α β : Type} (f : α → Option β) (g : α → β) : ∀ (L : List α), (∀ i ∈ L, f i = some (g i)) → L.mapM f = some (L.map g)
  | [], _ => rfl
  | x :: L, h => by
    rw [List.mapM_cons, h x (by simp), mapM_some f g L (fun i hi => h i (by simp [hi]))]
    rfl
theorem flatten_single {α β : Type} (h : α → β) : ∀ L : List α, (L.map fun i => [h i]).flatten = L.map h
  | [] => rfl
  | x :: L => by simp [flatten_single h L]
theorem keyLits_ints {P : Program} {t e n : Nat} {k : IntKind} (ht : P.underlying t = some (.array n e)) (he : P.underlying e = some (.int k)) (hce : P.cellsOf e = 1) (hct : P.cellsOf t = n) (l : List Int) (hl : l.length = n) (hw : ∀ x ∈ l, (Lit.int k x).wf = true) :
    P.keyLits 2 t (l.map fun x => Value.int k x) = some (l.map fun x => Lit.int k x) := by
  unfold Program.keyLits
  simp only [ht, hct, hce, List.length_map, hl, if_true]
  rw [mapM_some _ (fun i => [Lit.int k (l.getD i 0)])]
  · rw [Option.map_some, flatten_single]
    congr 1
    apply List.ext_getElem
    · simp [hl]
    · intro i h1 h2
      simp at h1
      simp [List.getElem?_eq_getElem (show i < l.length by omega)]
  · intro i hi
    have hi' : i < l.length := by rw [hl]; simpa using hi
    have hd : ((l.map fun x => Value.int k x).drop (i * 1)).take 1 = [Value.int k l[i]] := by
      rw [Nat.mul_one, List.drop_eq_getElem_cons (by rw [List.length_map]; exact hi')]
      simp
    rw [hd]
    have := hw l[i] (List.getElem_mem _)
    simp [Program.keyLits, he, this, List.getElem?_eq_getElem hi']
theorem eq_same {P : Program} {t e n : Nat} {k : IntKind} (ht : P.underlying t = some (.array n e)) (he : P.underlying e = some (.int k)) (hce : P.cellsOf e = 1) (hct : P.cellsOf t = n) (hk : P.keyTypeAt 2 t = true) (l : List Int) (hl : l.length = n) (hw : ∀ x ∈ l, (Lit.int k x).wf = true) (w : World) :
    (Op.equalIn 10000 t (.agg (l.map fun x => Value.int k x).toArray) (.agg (l.map fun x => Value.int k x).toArray)).run P w = .ok true w := by
  have hf : (Value.agg (l.map fun x => Value.int k x).toArray).formed P t = true := by simp [Value.formed, hct, hl, ht]
  have hl2 : P.keyLits 2 t (Value.agg (l.map fun x => Value.int k x).toArray).cells.toList = some (l.map fun x => Lit.int k x) := keyLits_ints ht he hce hct l hl hw
  obtain ⟨r, hr, hiff⟩ := run_equalIn_deep (P := P) 9998 2 t hk w 2 2 _ _ _ _ hf hf hl2 hl2
  rw [hr]
  congr 1
  exact hiff.2 rfl
theorem bcs_ints (l : List UInt8) : bcs l = (l.map fun b => (b.toNat : Int)).map fun x => Value.int .u8 x := by
  rw [List.map_map]
  rfl
theorem ucs_ints (l : List Nat) : ucs l = (l.map fun (b : Nat) => (b : Int)).map fun x => Value.int .u64 x := by
  rw [List.map_map]
  rfl
theorem wf8 (l : List UInt8) : ∀ x ∈ (l.map fun b => (b.toNat : Int)), (Lit.int .u8 x).wf = true := by
  intro x hx
  obtain ⟨b, _, rfl⟩ := List.mem_map.1 hx
  have := b.toNat_lt
  simp [Lit.wf, IntKind.min, IntKind.max, IntKind.signed, IntKind.bits]
  omega
theorem wf64 (l : List Nat) (hl : ∀ x ∈ l, x < 18446744073709551616) : ∀ x ∈ (l.map fun (b : Nat) => (b : Int)), (Lit.int .u64 x).wf = true := by
  intro x hx
  obtain ⟨b, hb, rfl⟩ := List.mem_map.1 hx
  have := hl b hb
  simp [Lit.wf, IntKind.min, IntKind.max, IntKind.signed, IntKind.bits]
  omega
/-- A slicing, by its run. -/
theorem exec_slice {P : Program} {o : Oper} {a : Act} {w : World} (t : TypeId) (x : Operand) (lo hi : Option Operand) (ho : o.op = .slice t x lo hi none) (v : Value) (hr : (Instr.sliceAt t (a.eval x) (lo.map a.eval) (hi.map a.eval) none).run P w = .ok v w) :
    (execOp a.eval o).run P w = .ok (.value v) w := by
  unfold execOp
  simp only [ho, Option.map_none, Sem.run_bind, Sem.run_pure, Result.andThen_ok, hr]
theorem ucs_set (l : List Nat) (j x : Nat) : (ucs l).toArray.setIfInBounds j (.int .u64 (x : Int)) = (ucs (l.set j x)).toArray := by
  apply Array.toList_inj.1
  rw [Array.toList_setIfInBounds]
  simp [ucs, uc, List.map_set]
theorem row_cells {w : World} {g : Nat} {cs : Array Value} {t : TypeId} (h : w.heap[g]? = some (.cells cs t (0, 0))) (i : Nat) (u : Value) (hu : cs.toList[i]? = some u) : w.cell? ⟨g, i, none⟩ = some u := by
  rw [cell_of_row w g i cs t (0, 0) h]
  simpa using hu
theorem word_cell {w : World} {g : Nat} {t : TypeId} {l : List Nat} (h : w.heap[g]? = some (.cells (ucs l).toArray t (0, 0))) (i : Nat) (hi : i < l.length) : w.cell? ⟨g, i, none⟩ = some (.int .u64 (l.getD i 0 : Nat)) := by
  refine row_cells h i _ ?_
  rw [List.toList_toArray, ucs_get, List.getD_eq_getElem?_getD, List.getElem?_eq_getElem hi]
  rfl

/-- So many zero words. -/
def zw (n : Nat) : Array Value := (ucs (List.replicate n 0)).toArray
/-- So many zero bytes, as an array. -/
def zbs (n : Nat) : Array Value := (bcs (List.replicate n 0)).toArray
theorem byte_of (x k : Nat) (y : UInt8) (h : y = UInt8.ofNat (x / 2 ^ k)) : ((x : Int) / 2 ^ k % 256) = (y.toNat : Int) := by
  subst h
  rw [UInt8.toNat_ofNat']
  simp

theorem wpList_store_one {P : Program} {ops : Array Oper} {rest : List Oper} {o : Oper} {a : Act} {w : World} {Q : Exit → Act → World → Prop} (hgd : Region.wanted o (yielded ops a.tmps) = true) (ty : TypeId) (p x : Operand) (ho : o.op = .store ty p x) (g j : Nat) (hp : a.eval p = .pointer (some ⟨g, j, none⟩)) (k : IntKind) (n : Int) (hx : a.eval x = .int k n)
    (t : TypeId) (cur : Array Value) (hg : w.heap[g]? = some (.cells cur t (0, 0))) (hi : (P.info? ty).map (·.size) = some 1) (hj : j < cur.size)
    (h : ∀ w', w'.heap[g]? = some (.cells (cur.setIfInBounds j (.int k n)) t (0, 0)) → w.grownBy w' (some g) → w'.heap.size = w.heap.size → wpList P ops Q rest (a.put o.dst undef) w') :
    wpList P ops Q (o :: rest) a w := by
  refine wpList_want hgd fun K hK => ?_
  cases hq : P.info? ty with
  | none => simp [hq] at hi
  | some i =>
    have hs : i.size = 1 := by simpa [hq] using hi
    have hst := run_storeCells_at P g j t [.int k n] 0 cur w hg (by simp; omega) (by simp [Value.oneCell'])
    simp only [Nat.add_zero] at hst
    have he : (cur.toList.take j ++ [Value.int k n] ++ cur.toList.drop (j + [Value.int k n].length)).toArray = cur.setIfInBounds j (.int k n) := by
      apply Array.toList_inj.1
      rw [Array.toList_setIfInBounds, List.set_eq_take_append_cons_drop, if_pos (by simpa using hj)]
      simp
    rw [he] at hst
    have hrun : (Instr.storeAt ty (.pointer (some ⟨g, j, none⟩)) (.int k n)).run P w = .ok () (w.setRow g (cur.setIfInBounds j (.int k n))) := by
      simp [Instr.storeAt, Instr.sureAddr, storeVar, sizeOf, typeInfo, hq, hs, Value.cells, hst]
    unfold Oper.wp execOp
    simp only [ho, hp, hx, Sem.run_bind, Sem.run_pure, Result.andThen_ok, hrun]
    exact hK _ _ (h _ (setRow_heap w g cur _ t _ hg) (setRow_grown w g _) (by simp))

/-- A part of a function's text. -/
def findAt (p : Code → Bool) : Code → Option Code
  | .seq a b => if p (.seq a b) then some (.seq a b) else (match findAt p a with | some c => some c | none => findAt p b)
  | .block _ c => findAt p c
  | .loop c => findAt p c
  | .scope c => findAt p c
  | .cond _ a b => (match findAt p a with | some c => some c | none => findAt p b)
  | _ => none
def atRegion (r : Nat) : Code → Bool
  | .seq (.seq (.region k _ _) _) _ => k == r
  | _ => false

end Go.Proofs.Ytgdimnbdnepbgaa
/- The field's plain functions: bits beyond 51, sums of products. No statement is proved here. -/
namespace Go.Proofs.Ytgdimnbdnepbgaa
open Go.RowKit
set_option linter.unusedVariables false
set_option linter.unusedSimpArgs false
set_option maxRecDepth 40000

theorem mod64 (x : Nat) : x % 18446744073709551616 < 18446744073709551616 := Nat.mod_lt _ (by omega)
theorem or_add (a b k : Nat) (h : b < 2 ^ k) : (a * 2 ^ k) ||| b = a * 2 ^ k + b := by
  rw [Nat.mul_comm a, Nat.two_pow_add_eq_or_of_lt h]

theorem shl_nat' (x m : Nat) : IntKind.u64.wrap ((x : Int) * (m : Int)) = ((x * m % 18446744073709551616 : Nat) : Int) := by
  rw [IntKind.wrap_u64]; omega
theorem beyond_num (H L : Nat) (hH : H < 2251799813685248) (hL : L < 18446744073709551616) :
    bits .or .u64 (IntKind.u64.wrap ((H : Int) * 8192)) ((L : Int) / 2251799813685248) = (((H * 18446744073709551616 + L) / 2251799813685248 : Nat) : Int) := by
  have e1 : IntKind.u64.wrap ((H : Int) * 8192) = ((H * 8192 : Nat) : Int) := by rw [IntKind.wrap_u64]; omega
  have e2 : (L : Int) / 2251799813685248 = ((L / 2251799813685248 : Nat) : Int) := by omega
  rw [e1, e2, u64_or_nat _ _ (by omega) (by omega)]
  congr 1
  have := or_add H (L / 2251799813685248) 13 (by omega)
  rw [show (2 : Nat) ^ 13 = 8192 from rfl] at this
  rw [this]
  omega
theorem beyond_any (H L : Nat) (w : World) (hH : H < 2251799813685248) (hL : L < 18446744073709551616) :
    Calls Try.prog 97 #[.int .u64 H, .int .u64 L] w fun e w' => e = .returned (.int .u64 ((H * 18446744073709551616 + L) / 2251799813685248 : Nat)) ∧ w' = w := by
  have h := Lib.hid (beyond_num H L hH hL)
  clear hH hL
  generalize (H * 18446744073709551616 + L) / 2251799813685248 = R at *
  go_enter Try.func97, Try.ntmps97
  go_wp2
  go_ret
  exact ⟨ret_int h.out, rfl⟩

theorem add64_runc (x y c : Nat) (hx : x < 18446744073709551616) (hy : y < 18446744073709551616) (hc : c ≤ 1) (w : World) :
    (callFunc 109 #[.int .u64 x, .int .u64 y, .int .u64 c]).run Try.prog w =
      .ok (.value (.tuple #[.int .u64 (((x + y + c) % 18446744073709551616 : Nat) : Int), .int .u64 (((x + y + c) / 18446744073709551616 : Nat) : Int)])) w := by
  rw [run_callFunc_extern Try.func109 (by kernel_rfl) (by kernel_rfl) (by kernel_rfl) (e := add64Entry) (by kernel_rfl)]
  have h := run_add64 (P := Try.prog) x y c (by omega) (by omega) (by omega) (by omega) w
  rw [h]
  simp [Result.andThen]

theorem plus_num (h l a b : Nat) (hl : l < 18446744073709551616) (ha : a < 18446744073709551616) (hb : b < 18446744073709551616)
    (ht : h * 18446744073709551616 + l + a * b < 340282366920938463463374607431768211456) :
    (l + a * b % 18446744073709551616 + 0) % 18446744073709551616 = (h * 18446744073709551616 + l + a * b) % 18446744073709551616 ∧
      (h + a * b / 18446744073709551616 + (l + a * b % 18446744073709551616 + 0) / 18446744073709551616) % 18446744073709551616 = (h * 18446744073709551616 + l + a * b) / 18446744073709551616 ∧
      (l + a * b % 18446744073709551616 + 0) / 18446744073709551616 ≤ 1 ∧ h < 18446744073709551616 ∧ a * b / 18446744073709551616 < 18446744073709551616 := by
  generalize a * b = t at *
  omega

set_option maxHeartbeats 400000 in
theorem plus_any (h l a b : Nat) (w : World) (hl : l < 18446744073709551616) (ha : a < 18446744073709551616) (hb : b < 18446744073709551616)
    (ht : h * 18446744073709551616 + l + a * b < 340282366920938463463374607431768211456) :
    Calls Try.prog 108 #[.int .u64 h, .int .u64 l, .int .u64 a, .int .u64 b] w fun e w' =>
      e = .returned (.tuple #[.int .u64 ((h * 18446744073709551616 + l + a * b) / 18446744073709551616 : Nat), .int .u64 ((h * 18446744073709551616 + l + a * b) % 18446744073709551616 : Nat)]) ∧ w' = w := by
  obtain ⟨n1, n2, n3, n4, n5⟩ := plus_num h l a b hl ha hb ht
  have CM := Lib.hid (fun w => Try.bits_Mul64 a b ha hb w)
  have A1 : ∀ w, (callFunc 109 #[.int .u64 l, .int .u64 (a * b % 18446744073709551616 : Nat), .int .u64 0]).run Try.prog w =
      .ok (.value (.tuple #[.int .u64 (((l + a * b % 18446744073709551616 + 0) % 18446744073709551616 : Nat) : Int), .int .u64 (((l + a * b % 18446744073709551616 + 0) / 18446744073709551616 : Nat) : Int)])) w :=
    fun w => add64_runc l (a * b % 18446744073709551616) 0 hl (mod64 _) (by omega) w
  have A2 := fun w => add64_runc h (a * b / 18446744073709551616) ((l + a * b % 18446744073709551616 + 0) / 18446744073709551616) n4 n5 n3 w
  rw [n1] at A1
  rw [n2] at A2
  clear n1 n2 n3 n4 n5 ht hl ha hb
  generalize (h * 18446744073709551616 + l + a * b) / 18446744073709551616 = RH at *
  generalize (h * 18446744073709551616 + l + a * b) % 18446744073709551616 = RL at *
  generalize (l + a * b % 18446744073709551616 + 0) / 18446744073709551616 = cy at *
  generalize a * b / 18446744073709551616 = mh at *
  generalize a * b % 18446744073709551616 = ml at *
  go_enter Try.func108, Try.ntmps108
  go_wp2_with ((go_at_call 107); refine (CM.out _).mono ?_; rintro e w' ⟨rfl, rfl⟩)
  exact bodyPost_ret (results_tmp2 rfl _ _ _) rfl ⟨rfl, rfl⟩
end Go.Proofs.Ytgdimnbdnepbgaa
/- The field's sums of products over words that lie in memory. No statement is proved here. -/
namespace Go.Proofs.Ytgdimnbdnepbgaa
open Go.RowKit
set_option linter.unusedVariables false
set_option linter.unusedSimpArgs false
set_option maxRecDepth 40000

theorem plus_at (t a b : Nat) (w : World) (ha : a < 18446744073709551616) (hb : b < 18446744073709551616)
    (ht : t + a * b < 340282366920938463463374607431768211456) :
    Calls Try.prog 108 #[.int .u64 (t / 18446744073709551616 : Nat), .int .u64 (t % 18446744073709551616 : Nat), .int .u64 a, .int .u64 b] w fun e w' =>
      e = .returned (.tuple #[.int .u64 ((t + a * b) / 18446744073709551616 : Nat), .int .u64 ((t + a * b) % 18446744073709551616 : Nat)]) ∧ w' = w := by
  have e : t / 18446744073709551616 * 18446744073709551616 + t % 18446744073709551616 = t := by omega
  have h := plus_any (t / 18446744073709551616) (t % 18446744073709551616) a b w (mod64 _) ha hb (by rw [e]; exact ht)
  rw [e] at h
  exact h

set_option maxHeartbeats 800000 in
theorem sum_any (g a0 a1 a2 a3 a4 b0 b1 b2 b3 b4 : Nat) (w : World)
    (c0 : w.cell? ⟨g, 0, none⟩ = some (.int .u64 a0)) (c1 : w.cell? ⟨g, 1, none⟩ = some (.int .u64 a1)) (c2 : w.cell? ⟨g, 2, none⟩ = some (.int .u64 a2))
    (c3 : w.cell? ⟨g, 3, none⟩ = some (.int .u64 a3)) (c4 : w.cell? ⟨g, 4, none⟩ = some (.int .u64 a4))
    (ha0 : a0 < 18446744073709551616) (ha1 : a1 < 18446744073709551616) (ha2 : a2 < 18446744073709551616) (ha3 : a3 < 18446744073709551616) (ha4 : a4 < 18446744073709551616)
    (hb0 : b0 < 18446744073709551616) (hb1 : b1 < 18446744073709551616) (hb2 : b2 < 18446744073709551616) (hb3 : b3 < 18446744073709551616) (hb4 : b4 < 18446744073709551616)
    (ht : a0 * b0 + a1 * b1 + a2 * b2 + a3 * b3 + a4 * b4 < 340282366920938463463374607431768211456) :
    Calls Try.prog 96 #[.pointer (some ⟨g, 0, none⟩), .int .u64 b0, .int .u64 b1, .int .u64 b2, .int .u64 b3, .int .u64 b4] w fun e w' =>
      e = .returned (.tuple #[.int .u64 ((a0 * b0 + a1 * b1 + a2 * b2 + a3 * b3 + a4 * b4) / 18446744073709551616 : Nat), .int .u64 ((a0 * b0 + a1 * b1 + a2 * b2 + a3 * b3 + a4 * b4) % 18446744073709551616 : Nat)]) ∧ w' = w := by
  have M0 := Lib.hid (fun w => Try.bits_Mul64 a0 b0 ha0 hb0 w)
  have M1 := Lib.hid (fun w => plus_at (a0 * b0) a1 b1 w ha1 hb1 (by omega))
  have M2 := Lib.hid (fun w => plus_at (a0 * b0 + a1 * b1) a2 b2 w ha2 hb2 (by omega))
  have M3 := Lib.hid (fun w => plus_at (a0 * b0 + a1 * b1 + a2 * b2) a3 b3 w ha3 hb3 (by omega))
  have M4 := Lib.hid (fun w => plus_at (a0 * b0 + a1 * b1 + a2 * b2 + a3 * b3) a4 b4 w ha4 hb4 ht)
  clear ha0 ha1 ha2 ha3 ha4 hb0 hb1 hb2 hb3 hb4 ht
  generalize a0 * b0 + a1 * b1 + a2 * b2 + a3 * b3 + a4 * b4 = t4 at *
  generalize a0 * b0 + a1 * b1 + a2 * b2 + a3 * b3 = t3 at *
  generalize a0 * b0 + a1 * b1 + a2 * b2 = t2 at *
  generalize a0 * b0 + a1 * b1 = t1 at *
  generalize a0 * b0 = t0 at *
  generalize t0 / 18446744073709551616 = h0 at *
  generalize t0 % 18446744073709551616 = l0 at *
  generalize t1 / 18446744073709551616 = h1 at *
  generalize t1 % 18446744073709551616 = l1 at *
  generalize t2 / 18446744073709551616 = h2 at *
  generalize t2 % 18446744073709551616 = l2 at *
  generalize t3 / 18446744073709551616 = h3 at *
  generalize t3 % 18446744073709551616 = l3 at *
  generalize t4 / 18446744073709551616 = h4 at *
  generalize t4 % 18446744073709551616 = l4 at *
  go_enter Try.func96, Try.ntmps96
  go_wp2_with fail
  refine (M0.out _).mono ?_
  rintro e w' ⟨rfl, rfl⟩
  go_wp2_with fail
  refine (M1.out _).mono ?_
  rintro e w' ⟨rfl, rfl⟩
  go_wp2_with fail
  refine (M2.out _).mono ?_
  rintro e w' ⟨rfl, rfl⟩
  go_wp2_with fail
  refine (M3.out _).mono ?_
  rintro e w' ⟨rfl, rfl⟩
  go_wp2_with fail
  refine (M4.out _).mono ?_
  rintro e w' ⟨rfl, rfl⟩
  go_wp2_with fail
  exact bodyPost_ret (results_tmp2 rfl _ _ _) rfl ⟨rfl, rfl⟩
end Go.Proofs.Ytgdimnbdnepbgaa
/- The field's reader of eight bytes. No statement is proved here. -/
namespace Go.Proofs.Ytgdimnbdnepbgaa
open Go.RowKit
set_option linter.unusedVariables false
set_option linter.unusedSimpArgs false
set_option maxRecDepth 40000

def num8 (b0 b1 b2 b3 b4 b5 b6 b7 : Nat) : Nat := b0 + b1 * 256 + b2 * 65536 + b3 * 16777216 + b4 * 4294967296 + b5 * 1099511627776 + b6 * 281474976710656 + b7 * 72057594037927936

theorem or_step (x b k m : Nat) (hm : m = 2 ^ k) (hx : x < m) (hb : b < 256) (hk : m * 256 ≤ 18446744073709551616) :
    bits .or .u64 (x : Int) (IntKind.u64.wrap (IntKind.u64.wrap (b : Int) * (m : Int))) = ((x + b * m : Nat) : Int) := by
  have hbm : b * m ≤ 255 * m := Nat.mul_le_mul_right m (by omega)
  have e1 : IntKind.u64.wrap (b : Int) = (b : Int) := by rw [IntKind.wrap_u64]; omega
  have e2 : IntKind.u64.wrap ((b : Int) * (m : Int)) = ((b * m : Nat) : Int) := by
    rw [show (b : Int) * (m : Int) = ((b * m : Nat) : Int) from by simp, IntKind.wrap_u64]
    omega
  rw [e1, e2, u64_or_nat _ _ (by omega) (by omega)]
  congr 1
  have := or_add b x k (by omega)
  rw [← hm] at this
  rw [Nat.or_comm, this, Nat.add_comm]

theorem quad_num (b0 b1 b2 b3 b4 b5 b6 b7 : Nat) (h : b0 < 256 ∧ b1 < 256 ∧ b2 < 256 ∧ b3 < 256 ∧ b4 < 256 ∧ b5 < 256 ∧ b6 < 256 ∧ b7 < 256) :
    bits .or .u64 (bits .or .u64 (bits .or .u64 (bits .or .u64 (bits .or .u64 (bits .or .u64 (bits .or .u64 (IntKind.u64.wrap b0)
      (IntKind.u64.wrap (IntKind.u64.wrap b1 * 256))) (IntKind.u64.wrap (IntKind.u64.wrap b2 * 65536))) (IntKind.u64.wrap (IntKind.u64.wrap b3 * 16777216)))
      (IntKind.u64.wrap (IntKind.u64.wrap b4 * 4294967296))) (IntKind.u64.wrap (IntKind.u64.wrap b5 * 1099511627776))) (IntKind.u64.wrap (IntKind.u64.wrap b6 * 281474976710656)))
      (IntKind.u64.wrap (IntKind.u64.wrap b7 * 72057594037927936)) = ((num8 b0 b1 b2 b3 b4 b5 b6 b7 : Nat) : Int) := by
  obtain ⟨h0, h1, h2, h3, h4, h5, h6, h7⟩ := h
  have e0 : IntKind.u64.wrap (b0 : Int) = (b0 : Int) := by rw [IntKind.wrap_u64]; omega
  have s1 := or_step b0 b1 8 256 rfl (by omega) h1 (by omega)
  have s2 := or_step (b0 + b1 * 256) b2 16 65536 rfl (by omega) h2 (by omega)
  have s3 := or_step (b0 + b1 * 256 + b2 * 65536) b3 24 16777216 rfl (by omega) h3 (by omega)
  have s4 := or_step (b0 + b1 * 256 + b2 * 65536 + b3 * 16777216) b4 32 4294967296 rfl (by omega) h4 (by omega)
  have s5 := or_step (b0 + b1 * 256 + b2 * 65536 + b3 * 16777216 + b4 * 4294967296) b5 40 1099511627776 rfl (by omega) h5 (by omega)
  have s6 := or_step (b0 + b1 * 256 + b2 * 65536 + b3 * 16777216 + b4 * 4294967296 + b5 * 1099511627776) b6 48 281474976710656 rfl (by omega) h6 (by omega)
  have s7 := or_step (b0 + b1 * 256 + b2 * 65536 + b3 * 16777216 + b4 * 4294967296 + b5 * 1099511627776 + b6 * 281474976710656) b7 56 72057594037927936 rfl (by omega) h7 (by omega)
  rw [e0]
  refine Eq.trans ?_ s7
  refine congrArg (fun z => bits .or .u64 z _) (Eq.trans ?_ s6)
  refine congrArg (fun z => bits .or .u64 z _) (Eq.trans ?_ s5)
  refine congrArg (fun z => bits .or .u64 z _) (Eq.trans ?_ s4)
  refine congrArg (fun z => bits .or .u64 z _) (Eq.trans ?_ s3)
  refine congrArg (fun z => bits .or .u64 z _) (Eq.trans ?_ s2)
  exact congrArg (fun z => bits .or .u64 z _) s1

theorem num8_lt (b0 b1 b2 b3 b4 b5 b6 b7 : Nat) (h : b0 < 256 ∧ b1 < 256 ∧ b2 < 256 ∧ b3 < 256 ∧ b4 < 256 ∧ b5 < 256 ∧ b6 < 256 ∧ b7 < 256) : num8 b0 b1 b2 b3 b4 b5 b6 b7 < 18446744073709551616 := by
  unfold num8
  omega

set_option maxHeartbeats 800000 in
theorem quad_any (g o c b0 b1 b2 b3 b4 b5 b6 b7 : Nat) (w : World)
    (c0 : w.cell? ⟨g, o, none⟩ = some (.int .u8 b0)) (c1 : w.cell? ⟨g, o + 1, none⟩ = some (.int .u8 b1)) (c2 : w.cell? ⟨g, o + 2, none⟩ = some (.int .u8 b2))
    (c3 : w.cell? ⟨g, o + 3, none⟩ = some (.int .u8 b3)) (c4 : w.cell? ⟨g, o + 4, none⟩ = some (.int .u8 b4)) (c5 : w.cell? ⟨g, o + 5, none⟩ = some (.int .u8 b5))
    (c6 : w.cell? ⟨g, o + 6, none⟩ = some (.int .u8 b6)) (c7 : w.cell? ⟨g, o + 7, none⟩ = some (.int .u8 b7))
    (h0 : b0 < 256) (h1 : b1 < 256) (h2 : b2 < 256) (h3 : b3 < 256) (h4 : b4 < 256) (h5 : b5 < 256) (h6 : b6 < 256) (h7 : b7 < 256) :
    Calls Try.prog 105 #[.slice (some ⟨g, o, none⟩) 8 c] w (Gives (.int .u64 (num8 b0 b1 b2 b3 b4 b5 b6 b7)) w) := by
  have H := Lib.hid (And.intro h0 (And.intro h1 (And.intro h2 (And.intro h3 (And.intro h4 (And.intro h5 (And.intro h6 h7)))))))
  clear h0 h1 h2 h3 h4 h5 h6 h7
  go_enter Try.func105, Try.ntmps105
  go_wp2_with fail
  go_quiet (fail)
  go_wp2
  go_ret
  refine ⟨ret_int ?_, below_drewN' (Below.refl _ w) _⟩
  exact quad_num b0 b1 b2 b3 b4 b5 b6 b7 H.out
end Go.Proofs.Ytgdimnbdnepbgaa
/- The field's split of 32 bytes. No statement is proved here. -/
namespace Go.Proofs.Ytgdimnbdnepbgaa
open Go.RowKit
set_option linter.unusedVariables false
set_option linter.unusedSimpArgs false
set_option maxRecDepth 40000

/-- Byte i of l. -/
def bt (l : List UInt8) (i : Nat) : Nat := (l.getD i 0).toNat
theorem bt_lt (l : List UInt8) (i : Nat) : bt l i < 256 := (l.getD i 0).toNat_lt
/-- The eight bytes of l from k on, as a number. -/
def q8 (l : List UInt8) (k : Nat) : Nat := num8 (bt l k) (bt l (k + 1)) (bt l (k + 2)) (bt l (k + 3)) (bt l (k + 4)) (bt l (k + 5)) (bt l (k + 6)) (bt l (k + 7))
theorem q8_lt (l : List UInt8) (k : Nat) : q8 l k < 18446744073709551616 :=
  num8_lt _ _ _ _ _ _ _ _ ⟨bt_lt _ _, bt_lt _ _, bt_lt _ _, bt_lt _ _, bt_lt _ _, bt_lt _ _, bt_lt _ _, bt_lt _ _⟩
/-- A number's bytes lie in row g. -/
def NumAt (w : World) (g : Nat) (l : List UInt8) : Prop := l.length = 32 ∧ ∃ t, w.heap[g]? = some (.cells (bcs l).toArray t (0, 0))
theorem NumAt.cell {w : World} {g : Nat} {l : List UInt8} (h : NumAt w g l) (i : Nat) (hi : i < 32) : w.cell? ⟨g, i, none⟩ = some (.int .u8 (bt l i)) := by
  obtain ⟨hl, t, ht⟩ := h
  refine row_cells ht i _ ?_
  rw [List.toList_toArray, bcs_get]
  unfold bt
  rw [List.getD_eq_getElem?_getD, List.getElem?_eq_getElem (by omega)]
  rfl
theorem NumAt.lt {w : World} {g : Nat} {l : List UInt8} (h : NumAt w g l) : g < w.heap.size := by
  obtain ⟨_, t, ht⟩ := h
  exact (Array.getElem?_eq_some_iff.1 ht).1
theorem NumAt.below {w w' : World} {g B : Nat} {l : List UInt8} (h : NumAt w g l) (hb : Below B w w') (hg : g < B) : NumAt w' g l := by
  obtain ⟨hl, t, ht⟩ := h
  exact ⟨hl, t, (hb.block g hg).trans ht⟩
theorem NumAt.grown {w w' : World} {g : Nat} {l : List UInt8} {row : Option Nat} (h : NumAt w g l) (hb : w.grownBy w' row) (hg : some g ≠ row) : NumAt w' g l := by
  have := h.lt
  obtain ⟨hl, t, ht⟩ := h
  exact ⟨hl, t, (hb.block g this hg).trans ht⟩
theorem quad_row {w : World} {g : Nat} {l : List UInt8} (h : NumAt w g l) (k c : Nat) (hk : k ≤ 24) :
    Calls Try.prog 105 #[.slice (some ⟨g, k, none⟩) 8 c] w (Gives (.int .u64 (q8 l k)) w) :=
  quad_any g k c _ _ _ _ _ _ _ _ w (h.cell k (by omega)) (h.cell (k + 1) (by omega)) (h.cell (k + 2) (by omega)) (h.cell (k + 3) (by omega)) (h.cell (k + 4) (by omega)) (h.cell (k + 5) (by omega)) (h.cell (k + 6) (by omega)) (h.cell (k + 7) (by omega))
    (bt_lt _ _) (bt_lt _ _) (bt_lt _ _) (bt_lt _ _) (bt_lt _ _) (bt_lt _ _) (bt_lt _ _) (bt_lt _ _)

theorem under91 : Try.prog.underlying 91 = some (.array 4 24) := by kernel_rfl
theorem size91 : (Try.prog.info? 91).map (·.size) = some 4 := by kernel_rfl
theorem zero91 (w : World) : (zeroValue 91).run Try.prog w = .ok (.agg (zw 4)) w := by kernel_rfl
theorem size24 : (Try.prog.info? 24).map (·.size) = some 1 := by kernel_rfl

/-- The memory of split: the words so far, behind the number's row. -/
structure Sp (g : Nat) (l : List UInt8) (w : World) (o : List Nat) (w' : World) : Prop where
  num : NumAt w' g l
  old : g < w.heap.size
  row : w'.heap[w.heap.size]? = some (.cells (ucs o).toArray 91 (0, 0))
  lt : w.heap.size < w'.heap.size
  bel : Below w.heap.size w w'
theorem Sp.call {g : Nat} {l : List UInt8} {w : World} {o : List Nat} {w' w'' : World} (h : Sp g l w o w') (hb : Below w'.heap.size w' w'') : Sp g l w o w'' :=
  ⟨h.num.below hb h.num.lt, h.old, (hb.block _ h.lt).trans h.row, Nat.lt_of_lt_of_le h.lt hb.size, h.bel.trans (hb.mono (Nat.le_of_lt h.lt))⟩
theorem Sp.set {g : Nat} {l : List UInt8} {w : World} {o o' : List Nat} {w' w'' : World} (h : Sp g l w o w') (hg : w'.grownBy w'' (some w.heap.size)) (hh : w''.heap[w.heap.size]? = some (.cells (ucs o').toArray 91 (0, 0))) : Sp g l w o' w'' :=
  ⟨h.num.grown hg (by have := h.old; simp; omega), h.old, hh, (Array.getElem?_eq_some_iff.1 hh).1, h.bel.grown hg (by have := h.lt; omega) (fun r hr => by injection hr; omega)⟩

set_option maxHeartbeats 800000 in
theorem split_any (g : Nat) (l : List UInt8) (w : World) (h : NumAt w g l) :
    Calls Try.prog 92 #[.pointer (some ⟨g, 0, none⟩)] w (Gives (.agg (ucs [q8 l 0, q8 l 8, q8 l 16, q8 l 24]).toArray) w) := by
  have HO : Hid (g < w.heap.size) := h.lt
  have HN := Lib.hid h
  clear h
  have M0 : Hid (∀ (w' : World) (c : Nat), NumAt w' g l → Calls Try.prog 105 #[.slice (some ⟨g, 0, none⟩) 8 c] w' (Gives (.int .u64 (q8 l 0)) w')) := fun w' c h => quad_row h 0 c (by omega)
  have M1 : Hid (∀ (w' : World) (c : Nat), NumAt w' g l → Calls Try.prog 105 #[.slice (some ⟨g, 8, none⟩) 8 c] w' (Gives (.int .u64 (q8 l 8)) w')) := fun w' c h => quad_row h 8 c (by omega)
  have M2 : Hid (∀ (w' : World) (c : Nat), NumAt w' g l → Calls Try.prog 105 #[.slice (some ⟨g, 16, none⟩) 8 c] w' (Gives (.int .u64 (q8 l 16)) w')) := fun w' c h => quad_row h 16 c (by omega)
  have M3 : Hid (∀ (w' : World) (c : Nat), NumAt w' g l → Calls Try.prog 105 #[.slice (some ⟨g, 24, none⟩) 8 c] w' (Gives (.int .u64 (q8 l 24)) w')) := fun w' c h => quad_row h 24 c (by omega)
  generalize q8 l 0 = q0 at *
  generalize q8 l 8 = q1 at *
  generalize q8 l 16 = q2 at *
  generalize q8 l 24 = q3 at *
  go_enter Try.func92, Try.ntmps92
  go_wp2_with (with_reducible refine wpList_alloc_row rfl 91 rfl (.agg (zw 4)) zero91 ?_; intro w0 hh0 hz0 hg0; have HZ0 := Lib.hid hz0; clear hz0)
  have S : Hid (Sp g l w [0, 0, 0, 0] w0) :=
    ⟨HN.out.grown hg0 (by simp), HO.out, hh0, by rw [HZ0.out]; omega, (Below.refl _ w).grown hg0 (by omega) (by simp)⟩
  clear hh0 hg0 HZ0 HN HO
  refine (M0.out _ _ S.out.num).mono ?_
  rintro e v0 ⟨rfl, hb⟩
  have S0 := Lib.hid (S.out.call hb)
  clear hb S M0
  go_wp2_with ((with_reducible show wpList _ _ _ (⟨none, .store 24 (.tmp 7) (.tmp 6), _, _, _, _⟩ :: _) _ _); refine wpList_store_one rfl 24 (.tmp 7) (.tmp 6) rfl w.heap.size 0 rfl .u64 (q0 : Int) rfl 91 _ S0.out.row size24 (by simp [ucs_len]) ?_; intro u0 hh hg hz; clear hz; rw [ucs_set] at hh; have S := Lib.hid (S0.out.set (o' := [q0, 0, 0, 0]) hg hh); clear hh hg S0)
  refine (M1.out _ _ S.out.num).mono ?_
  rintro e v1 ⟨rfl, hb⟩
  have S1 := Lib.hid (S.out.call hb)
  clear hb S M1
  go_wp2_with ((with_reducible show wpList _ _ _ (⟨none, .store 24 (.tmp 12) (.tmp 11), _, _, _, _⟩ :: _) _ _); refine wpList_store_one rfl 24 (.tmp 12) (.tmp 11) rfl w.heap.size 1 rfl .u64 (q1 : Int) rfl 91 _ S1.out.row size24 (by simp [ucs_len]) ?_; intro u1 hh hg hz; clear hz; rw [ucs_set] at hh; have S := Lib.hid (S1.out.set (o' := [q0, q1, 0, 0]) hg hh); clear hh hg S1)
  refine (M2.out _ _ S.out.num).mono ?_
  rintro e v2 ⟨rfl, hb⟩
  have S2 := Lib.hid (S.out.call hb)
  clear hb S M2
  go_wp2_with ((with_reducible show wpList _ _ _ (⟨none, .store 24 (.tmp 17) (.tmp 16), _, _, _, _⟩ :: _) _ _); refine wpList_store_one rfl 24 (.tmp 17) (.tmp 16) rfl w.heap.size 2 rfl .u64 (q2 : Int) rfl 91 _ S2.out.row size24 (by simp [ucs_len]) ?_; intro u2 hh hg hz; clear hz; rw [ucs_set] at hh; have S := Lib.hid (S2.out.set (o' := [q0, q1, q2, 0]) hg hh); clear hh hg S2)
  refine (M3.out _ _ S.out.num).mono ?_
  rintro e v3 ⟨rfl, hb⟩
  have S3 := Lib.hid (S.out.call hb)
  clear hb S M3
  go_wp2_with (first | ((with_reducible show wpList _ _ _ (⟨none, .store 24 (.tmp 22) (.tmp 21), _, _, _, _⟩ :: _) _ _); refine wpList_store_one rfl 24 (.tmp 22) (.tmp 21) rfl w.heap.size 3 rfl .u64 (q3 : Int) rfl 91 _ S3.out.row size24 (by simp [ucs_len]) ?_; intro u3 hh hg hz; clear hz; rw [ucs_set] at hh; have S := Lib.hid (S3.out.set (o' := [q0, q1, q2, q3]) hg hh); clear hh hg S3; have HC : Hid (∀ i u, (ucs [q0, q1, q2, q3])[i]? = some u → u3.cell? ⟨w.heap.size, 0 + i, none⟩ = some u) := fun i u hu => by rw [Nat.zero_add]; exact row_cells S.out.row i u (by simpa using hu)) | ((with_reducible show wpList _ _ _ (⟨_, .load 91 (.tmp 2), _, _, _, _⟩ :: _) _ _); refine wpList_load_arr rfl 91 (.tmp 2) rfl w.heap.size 0 rfl (ucs [q0, q1, q2, q3]) HC.out _ under91 rfl size91 ?_) | ((with_reducible show wpList _ _ _ (⟨none, .store 91 (.tmp 2) (.tmp 23), _, _, _, _⟩ :: _) _ _); refine wpList_store_all rfl 91 (.tmp 2) (.tmp 23) rfl w.heap.size rfl (ucs [q0, q1, q2, q3]).toArray rfl 91 _ S.out.row size91 rfl (ucs_one _) ?_; intro w3 hh3 hg3 hz3; have S4 := Lib.hid (S.out.set hg3 hh3); clear hh3 hg3 hz3))
  refine bodyPost_ret (results_cell_row rfl _ _ w.heap.size 91 (ucs [q0, q1, q2, q3]).toArray _ _ rfl S4.out.row under91 rfl size91) rfl ?_
  exact ⟨rfl, S4.out.bel⟩
end Go.Proofs.Ytgdimnbdnepbgaa
/- The field's read: 32 bytes become five words. No statement is proved here. -/
namespace Go.Proofs.Ytgdimnbdnepbgaa
open Go.RowKit
set_option linter.unusedVariables false
set_option linter.unusedSimpArgs false
set_option maxRecDepth 40000

/-- Words o lie in row g. -/
def WAt (w : World) (g : Nat) (o : List Nat) : Prop := o.length = 5 ∧ ∃ t, w.heap[g]? = some (.cells (ucs o).toArray t (0, 0))
/-- What a method that changes the words at g leaves. -/
def Sets (g : Nat) (o : List Nat) (w : World) (e : Ending) (w' : World) : Prop := e = .returned (.tuple #[]) ∧ WAt w' g o ∧ Keeps (· = g) w w'
theorem WAt.lt {w : World} {g : Nat} {o : List Nat} (h : WAt w g o) : g < w.heap.size := by
  obtain ⟨_, t, ht⟩ := h
  exact (Array.getElem?_eq_some_iff.1 ht).1
theorem WAt.below {w w' : World} {g B : Nat} {o : List Nat} (h : WAt w g o) (hb : Below B w w') (hg : g < B) : WAt w' g o := by
  obtain ⟨hl, t, ht⟩ := h
  exact ⟨hl, t, (hb.block g hg).trans ht⟩
theorem WAt.grown {w w' : World} {g : Nat} {o : List Nat} {row : Option Nat} (h : WAt w g o) (hb : w.grownBy w' row) (hg : some g ≠ row) : WAt w' g o := by
  have := h.lt
  obtain ⟨hl, t, ht⟩ := h
  exact ⟨hl, t, (hb.block g this hg).trans ht⟩
theorem WAt.keeps {G : Nat → Prop} {w w' : World} {g : Nat} {o : List Nat} (h : WAt w g o) (hk : Keeps G w w') (hg : ¬ G g) : WAt w' g o := by
  have := h.lt
  obtain ⟨hl, t, ht⟩ := h
  exact ⟨hl, t, (hk.block g this hg).trans ht⟩
theorem NumAt.keeps {G : Nat → Prop} {w w' : World} {g : Nat} {l : List UInt8} (h : NumAt w g l) (hk : Keeps G w w') (hg : ¬ G g) : NumAt w' g l := by
  have := h.lt
  obtain ⟨hl, t, ht⟩ := h
  exact ⟨hl, t, (hk.block g this hg).trans ht⟩
theorem WAt.cell {w : World} {g : Nat} {o : List Nat} (h : WAt w g o) (i : Nat) (hi : i < 5) : w.cell? ⟨g, i, none⟩ = some (.int .u64 (o.getD i 0 : Nat)) := by
  obtain ⟨hl, t, ht⟩ := h
  exact word_cell ht i (by omega)

/-- The memory of read. -/
structure Rd (g : Nat) (w : World) (gq q0 q1 q2 q3 : Nat) (o : List Nat) (w' : World) : Prop where
  len : o.length = 5
  row : ∃ t, w'.heap[g]? = some (.cells (ucs o).toArray t (0, 0))
  quads : w'.heap[gq]? = some (.cells (ucs [q0, q1, q2, q3]).toArray 91 (0, 0))
  old : g < w.heap.size
  new : w.heap.size ≤ gq
  keeps : Keeps (· = g) w w'
theorem Rd.set {g : Nat} {w : World} {gq q0 q1 q2 q3 : Nat} {o : List Nat} {w' w'' : World} {t : TypeId} (h : Rd g w gq q0 q1 q2 q3 o w') (hg : w'.grownBy w'' (some g)) (i x : Nat) (hh : w''.heap[g]? = some (.cells (ucs (o.set i x)).toArray t (0, 0))) : Rd g w gq q0 q1 q2 q3 (o.set i x) w'' :=
  ⟨by rw [List.length_set]; exact h.len, ⟨t, hh⟩, (hg.block _ (Array.getElem?_eq_some_iff.1 h.quads).1 (by have := h.old; have := h.new; simp; omega)).trans h.quads, h.old, h.new, h.keeps.trans (Keeps.of_grown hg (fun r hr => by injection hr with hr; exact hr.symm))⟩
theorem Rd.drewN {g : Nat} {w : World} {gq q0 q1 q2 q3 : Nat} {o : List Nat} {w' : World} (h : Rd g w gq q0 q1 q2 q3 o w') (n : Nat) : Rd g w gq q0 q1 q2 q3 o (w'.drewN n) :=
  ⟨h.len, h.row, h.quads, h.old, h.new, h.keeps.trans (Keeps.drewN _ _ _)⟩
theorem Rd.q {g : Nat} {w : World} {gq q0 q1 q2 q3 : Nat} {o : List Nat} {w' : World} (h : Rd g w gq q0 q1 q2 q3 o w') :
    w'.cell? ⟨gq, 0, none⟩ = some (.int .u64 q0) ∧ w'.cell? ⟨gq, 1, none⟩ = some (.int .u64 q1) ∧ w'.cell? ⟨gq, 2, none⟩ = some (.int .u64 q2) ∧ w'.cell? ⟨gq, 3, none⟩ = some (.int .u64 q3) :=
  ⟨word_cell h.quads 0 (by simp), word_cell h.quads 1 (by simp), word_cell h.quads 2 (by simp), word_cell h.quads 3 (by simp)⟩

theorem five_set (o : List Nat) (r0 r1 r2 r3 r4 : Nat) (h : o.length = 5) : ((((o.set 0 r0).set 1 r1).set 2 r2).set 3 r3).set 4 r4 = [r0, r1, r2, r3, r4] := by
  match o, h with
  | [a, b, c, d, e], _ => rfl

set_option maxHeartbeats 1600000 in
theorem read_core (g ga : Nat) (o : List Nat) (l : List UInt8) (w : World) (q0 q1 q2 q3 r0 r1 r2 r3 r4 : Nat) (HW : Hid (WAt w g o)) (HN : Hid (NumAt w ga l))
    (M0 : Hid (∀ w', NumAt w' ga l → Calls Try.prog 92 #[.pointer (some ⟨ga, 0, none⟩)] w' (Gives (.agg (ucs [q0, q1, q2, q3]).toArray) w')))
    (R0 : Hid (bits .and .u64 (q0 : Int) 2251799813685247 = (r0 : Int)))
    (R1 : Hid (bits .and .u64 (bits .or .u64 ((q0 : Int) / 2251799813685248) (IntKind.u64.wrap ((q1 : Int) * 8192))) 2251799813685247 = (r1 : Int)))
    (R2 : Hid (bits .and .u64 (bits .or .u64 ((q1 : Int) / 274877906944) (IntKind.u64.wrap ((q2 : Int) * 67108864))) 2251799813685247 = (r2 : Int)))
    (R3 : Hid (bits .and .u64 (bits .or .u64 ((q2 : Int) / 33554432) (IntKind.u64.wrap ((q3 : Int) * 549755813888))) 2251799813685247 = (r3 : Int)))
    (R4 : Hid ((q3 : Int) / 4096 = (r4 : Int))) :
    Calls Try.prog 65 #[.pointer (some ⟨g, 0, none⟩), .pointer (some ⟨ga, 0, none⟩)] w (Sets g [r0, r1, r2, r3, r4] w) := by
  go_enter Try.func65, Try.ntmps65
  go_wp2_with fail
  refine (M0.out _ HN.out).mono ?_
  rintro e w1 ⟨rfl, hb⟩
  have HB := Lib.hid hb
  clear hb M0 HN
  go_wp2_with (first | (with_reducible refine wpList_alloc_row rfl 91 rfl (.agg (zw 4)) zero91 ?_; intro w2 hh2 hz2 hg2; have HZ2 := Lib.hid hz2; have HG2 := Lib.hid hg2; have HH2 := Lib.hid hh2; clear hz2 hg2 hh2) | ((with_reducible show wpList _ _ _ (⟨none, .store 91 (.tmp 4) (.tmp 6), _, _, _, _⟩ :: _) _ _); refine wpList_store_all rfl 91 (.tmp 4) (.tmp 6) rfl w1.heap.size rfl (ucs [q0, q1, q2, q3]).toArray rfl 91 _ HH2.out size91 rfl (ucs_one _) ?_; intro w3 hh3 hg3 hz3; have HH3 := Lib.hid hh3; have HG3 := Lib.hid hg3; clear hh3 hg3 hz3))
  have S : Hid (Rd g w w1.heap.size q0 q1 q2 q3 o w3) := by
    have h1 := HW.out.lt
    have h2 := HB.out.size
    obtain ⟨hl, t, ht⟩ := ((HW.out.below HB.out h1).grown HG2.out (by simp)).grown HG3.out (by simp; omega)
    refine ⟨hl, ⟨t, ht⟩, HH3.out, h1, h2, ?_⟩
    have h3 := HZ2.out
    have k1 : Below w.heap.size w w3 := (HB.out.grown HG2.out h2 (by simp)).grown HG3.out (by omega) (fun r hr => by injection hr; omega)
    exact Keeps.of_below k1
  clear HW HB HH2 HG2 HZ2 HH3 HG3
  generalize w1.heap.size = gq at *
  have HL : Hid (o.length = 5) := S.out.len
  obtain ⟨c0, c1, c2, c3⟩ := S.out.q
  go_still_tail 6, (by kernel_rfl)
  clear c0 c1 c2 c3
  have S0 : Hid (Rd g w gq q0 q1 q2 q3 _ { heap := w3.heap, tape := w3.tape, drawn := w3.drawn + 1, os := w3.os, output := w3.output }) := S.out.drewN 1
  clear S
  generalize ({ heap := w3.heap, tape := w3.tape, drawn := w3.drawn + 1, os := w3.os, output := w3.output } : World) = x0 at *
  obtain ⟨t0, ht0⟩ := S0.out.row
  refine wpList_store_one rfl 24 (.tmp 12) (.tmp 10) rfl g 0 rfl .u64 _ rfl t0 _ ht0 size24 (by have := S0.out.len; simp only [List.size_toArray, ucs_len]; omega) ?_
  intro y0 hh hg hz
  rw [R0.out, ucs_set] at hh
  have S := Lib.hid (S0.out.set hg 0 r0 hh)
  clear hh hg hz ht0 S0 R0
  go_wp2_with fail
  obtain ⟨c0, c1, c2, c3⟩ := S.out.q
  go_still_tail 11, (by kernel_rfl)
  clear c0 c1 c2 c3
  have S1 : Hid (Rd g w gq q0 q1 q2 q3 _ { heap := y0.heap, tape := y0.tape, drawn := y0.drawn + 1, os := y0.os, output := y0.output }) := S.out.drewN 1
  clear S
  generalize ({ heap := y0.heap, tape := y0.tape, drawn := y0.drawn + 1, os := y0.os, output := y0.output } : World) = x1 at *
  obtain ⟨t1, ht1⟩ := S1.out.row
  refine wpList_store_one rfl 24 (.tmp 23) (.tmp 21) rfl g 1 rfl .u64 _ rfl t1 _ ht1 size24 (by have := S1.out.len; simp only [List.size_toArray, ucs_len]; omega) ?_
  intro y1 hh hg hz
  rw [R1.out, ucs_set] at hh
  have S := Lib.hid (S1.out.set hg 1 r1 hh)
  clear hh hg hz ht1 S1 R1
  go_wp2_with fail
  obtain ⟨c0, c1, c2, c3⟩ := S.out.q
  go_still_tail 11, (by kernel_rfl)
  clear c0 c1 c2 c3
  have S2 : Hid (Rd g w gq q0 q1 q2 q3 _ { heap := y1.heap, tape := y1.tape, drawn := y1.drawn + 1, os := y1.os, output := y1.output }) := S.out.drewN 1
  clear S
  generalize ({ heap := y1.heap, tape := y1.tape, drawn := y1.drawn + 1, os := y1.os, output := y1.output } : World) = x2 at *
  obtain ⟨t2, ht2⟩ := S2.out.row
  refine wpList_store_one rfl 24 (.tmp 34) (.tmp 32) rfl g 2 rfl .u64 _ rfl t2 _ ht2 size24 (by have := S2.out.len; simp only [List.size_toArray, ucs_len]; omega) ?_
  intro y2 hh hg hz
  rw [R2.out, ucs_set] at hh
  have S := Lib.hid (S2.out.set hg 2 r2 hh)
  clear hh hg hz ht2 S2 R2
  go_wp2_with fail
  obtain ⟨c0, c1, c2, c3⟩ := S.out.q
  go_still_tail 11, (by kernel_rfl)
  clear c0 c1 c2 c3
  have S3 : Hid (Rd g w gq q0 q1 q2 q3 _ { heap := y2.heap, tape := y2.tape, drawn := y2.drawn + 1, os := y2.os, output := y2.output }) := S.out.drewN 1
  clear S
  generalize ({ heap := y2.heap, tape := y2.tape, drawn := y2.drawn + 1, os := y2.os, output := y2.output } : World) = x3 at *
  obtain ⟨t3, ht3⟩ := S3.out.row
  refine wpList_store_one rfl 24 (.tmp 45) (.tmp 43) rfl g 3 rfl .u64 _ rfl t3 _ ht3 size24 (by have := S3.out.len; simp only [List.size_toArray, ucs_len]; omega) ?_
  intro y3 hh hg hz
  rw [R3.out, ucs_set] at hh
  have S := Lib.hid (S3.out.set hg 3 r3 hh)
  clear hh hg hz ht3 S3 R3
  go_wp2_with fail
  obtain ⟨c0, c1, c2, c3⟩ := S.out.q
  go_still_tail 6, (by kernel_rfl)
  clear c0 c1 c2 c3
  have S4 : Hid (Rd g w gq q0 q1 q2 q3 _ { heap := y3.heap, tape := y3.tape, drawn := y3.drawn + 1, os := y3.os, output := y3.output }) := S.out.drewN 1
  clear S
  generalize ({ heap := y3.heap, tape := y3.tape, drawn := y3.drawn + 1, os := y3.os, output := y3.output } : World) = x4 at *
  obtain ⟨t4, ht4⟩ := S4.out.row
  refine wpList_store_one rfl 24 (.tmp 51) (.tmp 49) rfl g 4 rfl .u64 _ rfl t4 _ ht4 size24 (by have := S4.out.len; simp only [List.size_toArray, ucs_len]; omega) ?_
  intro y4 hh hg hz
  rw [R4.out, ucs_set] at hh
  have S := Lib.hid (S4.out.set hg 4 r4 hh)
  clear hh hg hz ht4 S4 R4
  go_wp2_with fail
  refine bodyPost_end (results_none rfl _ _ _) rfl ?_
  obtain ⟨t, ht⟩ := S.out.row
  rw [five_set _ _ _ _ _ _ HL.out] at ht
  exact ⟨rfl, ⟨rfl, t, ht⟩, S.out.keeps⟩
end Go.Proofs.Ytgdimnbdnepbgaa
/- The field's read, in numbers. No statement is proved here. -/
namespace Go.Proofs.Ytgdimnbdnepbgaa
open Go.RowKit
set_option linter.unusedVariables false
set_option linter.unusedSimpArgs false
set_option maxRecDepth 40000

theorem and_mask (x : Nat) (hx : x < 18446744073709551616) : bits .and .u64 (x : Int) 2251799813685247 = ((x % 2251799813685248 : Nat) : Int) := by
  have h := u64_and_nat x 2251799813685247 hx (by omega)
  have e : x &&& 2251799813685247 = x % 2251799813685248 := Nat.and_two_pow_sub_one_eq_mod x 51
  rw [e] at h
  exact h
theorem cross_bits (a b D E k : Nat) (hE : E = 2 ^ k) (hD : 0 < D) (hDE : D * E = 18446744073709551616) (ha : a < 18446744073709551616) :
    bits .and .u64 (bits .or .u64 ((a : Int) / (D : Int)) (IntKind.u64.wrap ((b : Int) * (E : Int)))) 2251799813685247 = (((a / D + b % D * E) % 2251799813685248 : Nat) : Int) := by
  have h1 : a / D < E := by rw [Nat.div_lt_iff_lt_mul hD, Nat.mul_comm]; omega
  have h2 : b * E % 18446744073709551616 = b % D * E := by rw [← hDE, Nat.mul_mod_mul_right]
  have h3 : b % D * E < 18446744073709551616 := by rw [← h2]; exact mod64 _
  have h4 : a / D < 18446744073709551616 := Nat.lt_of_le_of_lt (Nat.div_le_self _ _) ha
  have e1 : IntKind.u64.wrap ((b : Int) * (E : Int)) = ((b % D * E : Nat) : Int) := by
    rw [show (b : Int) * (E : Int) = ((b * E : Nat) : Int) from by simp, wrap_nat, h2]
  have e2 : (a : Int) / (D : Int) = ((a / D : Nat) : Int) := by simp
  have e3 : (a / D) ||| (b % D * E) = a / D + b % D * E := by
    have := or_add (b % D) (a / D) k (by omega)
    rw [← hE] at this
    rw [Nat.or_comm, this, Nat.add_comm]
  have h5 : a / D + b % D * E < 18446744073709551616 := by
    have : (b % D + 1) * E ≤ D * E := Nat.mul_le_mul_right E (Nat.mod_lt _ hD)
    rw [Nat.add_mul, hDE] at this
    omega
  rw [e1, e2, u64_or_nat _ _ h4 h3, e3, and_mask _ h5]

/-- The words of five that read makes. -/
def w51 (q0 q1 q2 q3 : Nat) : List Nat := [q0 % 2251799813685248, (q0 / 2251799813685248 + q1 % 2251799813685248 * 8192) % 2251799813685248, (q1 / 274877906944 + q2 % 274877906944 * 67108864) % 2251799813685248,
  (q2 / 33554432 + q3 % 33554432 * 549755813888) % 2251799813685248, q3 / 4096]
def rdw (l : List UInt8) : List Nat := w51 (q8 l 0) (q8 l 8) (q8 l 16) (q8 l 24)
/-- The number of five words. -/
def val5 : List Nat → Nat
  | [a, b, c, d, e] => a + b * 2251799813685248 + c * 5070602400912917605986812821504 + d * 11417981541647679048466287755595961091061972992 + e * 25711008708143844408671393477458601640355247900524685364822016
  | _ => 0
/-- The number of 32 bytes. -/
def nv (l : List UInt8) : Nat := q8 l 0 + q8 l 8 * 18446744073709551616 + q8 l 16 * 340282366920938463463374607431768211456 + q8 l 24 * 6277101735386680763835789423207666416102355444464034512896
/-- Each word is below b. -/
def Bnd (b : Nat) (o : List Nat) : Prop := o.length = 5 ∧ ∀ i, i < 5 → o.getD i 0 < b

theorem w51_val (q0 q1 q2 q3 : Nat) (h0 : q0 < 18446744073709551616) (h1 : q1 < 18446744073709551616) (h2 : q2 < 18446744073709551616) (h3 : q3 < 18446744073709551616) :
    val5 (w51 q0 q1 q2 q3) = q0 + q1 * 18446744073709551616 + q2 * 340282366920938463463374607431768211456 + q3 * 6277101735386680763835789423207666416102355444464034512896 := by
  have e1 : (q0 / 2251799813685248 + q1 % 2251799813685248 * 8192) % 2251799813685248 = q0 / 2251799813685248 + q1 % 274877906944 * 8192 := by omega
  have e2 : (q1 / 274877906944 + q2 % 274877906944 * 67108864) % 2251799813685248 = q1 / 274877906944 + q2 % 33554432 * 67108864 := by omega
  have e3 : (q2 / 33554432 + q3 % 33554432 * 549755813888) % 2251799813685248 = q2 / 33554432 + q3 % 4096 * 549755813888 := by omega
  unfold val5 w51
  simp only [e1, e2, e3]
  have d0 := Nat.div_add_mod q0 2251799813685248
  have d1 := Nat.div_add_mod q1 274877906944
  have d2 := Nat.div_add_mod q2 33554432
  have d3 := Nat.div_add_mod q3 4096
  generalize q0 / 2251799813685248 = b0 at *
  generalize q0 % 2251799813685248 = a0 at *
  generalize q1 / 274877906944 = b1 at *
  generalize q1 % 274877906944 = a1 at *
  generalize q2 / 33554432 = b2 at *
  generalize q2 % 33554432 = a2 at *
  generalize q3 / 4096 = b3 at *
  generalize q3 % 4096 = a3 at *
  omega
theorem w51_bnd (q0 q1 q2 q3 : Nat) (h3 : q3 < 18446744073709551616) : Bnd 4503599627370496 (w51 q0 q1 q2 q3) := by
  refine ⟨rfl, fun i hi => ?_⟩
  unfold w51
  match i, hi with
  | 0, _ => simp only [List.getD_cons_zero]; omega
  | 1, _ => simp only [List.getD_cons_zero, List.getD_cons_succ]; omega
  | 2, _ => simp only [List.getD_cons_zero, List.getD_cons_succ]; omega
  | 3, _ => simp only [List.getD_cons_zero, List.getD_cons_succ]; omega
  | 4, _ => simp only [List.getD_cons_zero, List.getD_cons_succ]; omega
theorem rdw_val (l : List UInt8) : val5 (rdw l) = nv l := w51_val _ _ _ _ (q8_lt _ _) (q8_lt _ _) (q8_lt _ _) (q8_lt _ _)
theorem rdw_bnd (l : List UInt8) : Bnd 4503599627370496 (rdw l) := w51_bnd _ _ _ _ (q8_lt _ _)

theorem read_any (g ga : Nat) (o : List Nat) (l : List UInt8) (w : World) (ho : WAt w g o) (hl : NumAt w ga l) :
    Calls Try.prog 65 #[.pointer (some ⟨g, 0, none⟩), .pointer (some ⟨ga, 0, none⟩)] w (Sets g (rdw l) w) := by
  have M0 : ∀ w', NumAt w' ga l → Calls Try.prog 92 #[.pointer (some ⟨ga, 0, none⟩)] w' (Gives (.agg (ucs [q8 l 0, q8 l 8, q8 l 16, q8 l 24]).toArray) w') := fun w' h => split_any ga l w' h
  have B0 := q8_lt l 0
  have B1 := q8_lt l 8
  have B2 := q8_lt l 16
  have B3 := q8_lt l 24
  unfold rdw w51
  exact read_core g ga o l w _ _ _ _ _ _ _ _ _ ho hl M0 (and_mask _ B0)
    (cross_bits _ _ 2251799813685248 8192 13 rfl (by omega) rfl B0) (cross_bits _ _ 274877906944 67108864 26 rfl (by omega) rfl B1) (cross_bits _ _ 33554432 549755813888 39 rfl (by omega) rfl B2) (Lib.hid (by simp))
end Go.Proofs.Ytgdimnbdnepbgaa
/- The field's pass. No statement is proved here. -/
namespace Go.Proofs.Ytgdimnbdnepbgaa
open Go.RowKit
set_option linter.unusedVariables false
set_option linter.unusedSimpArgs false
set_option maxRecDepth 40000

/-- One word cut, what is beyond carried. -/
def pstep (p : List Nat × Nat) (n : Nat) : List Nat × Nat := (p.1.set n ((p.1.getD n 0 + p.2) % 2251799813685248), (p.1.getD n 0 + p.2) / 2251799813685248)
def passk (o : List Nat) : Nat → List Nat × Nat
  | 0 => (o, 0)
  | n + 1 => pstep (passk o n) n
theorem passk_len (o : List Nat) (n : Nat) : (passk o n).1.length = o.length := by
  induction n with
  | zero => rfl
  | succ n ih => unfold passk pstep; simp [ih]
theorem passk_later (o : List Nat) (n i : Nat) (h : n ≤ i) : (passk o n).1.getD i 0 = o.getD i 0 := by
  induction n with
  | zero => rfl
  | succ n ih =>
    unfold passk pstep
    simp only [List.getD_eq_getElem?_getD]
    rw [List.getElem?_set_ne (by omega)]
    have := ih (by omega)
    simpa [List.getD_eq_getElem?_getD] using this
theorem passk_carry (o : List Nat) (ho : Bnd 9223372036854775808 o) (n : Nat) (hn : n ≤ 5) : (passk o n).2 ≤ 4096 := by
  induction n with
  | zero => simp [passk]
  | succ n ih =>
    have h1 := ih (by omega)
    have h2 := passk_later o n n (Nat.le_refl _)
    have h3 := ho.2 n (by omega)
    unfold passk pstep
    simp only [h2]
    omega

/-- The memory of pass. -/
structure Ps (g : Nat) (w : World) (o : List Nat) (w' : World) : Prop where
  at_ : WAt w' g o
  keeps : Keeps (· = g) w w'
theorem Ps.set {g : Nat} {w : World} {o : List Nat} {w' w'' : World} {t : TypeId} (h : Ps g w o w') (hg : w'.grownBy w'' (some g)) (i x : Nat) (hh : w''.heap[g]? = some (.cells (ucs (o.set i x)).toArray t (0, 0))) : Ps g w (o.set i x) w'' :=
  ⟨⟨by rw [List.length_set]; exact h.at_.1, t, hh⟩, h.keeps.trans (Keeps.of_grown hg (fun r hr => by injection hr with hr; exact hr.symm))⟩
theorem Ps.drewN {g : Nat} {w : World} {o : List Nat} {w' : World} (h : Ps g w o w') (n : Nat) : Ps g w o (w'.drewN n) :=
  ⟨h.at_, h.keeps.trans (Keeps.drewN _ _ _)⟩

set_option maxHeartbeats 800000 in
theorem pass_any (g : Nat) (o : List Nat) (w : World) (hw : WAt w g o) (ho : Bnd 9223372036854775808 o) :
    Calls Try.prog 106 #[.pointer (some ⟨g, 0, none⟩)] w fun e w' => e = .returned (.int .u64 (passk o 5).2) ∧ WAt w' g (passk o 5).1 ∧ Keeps (· = g) w w' := by
  have HO := Lib.hid ho
  have HS : Hid (Ps g w (passk o 0).1 w) := ⟨hw, Keeps.refl _ _⟩
  clear hw ho
  go_enter Try.func106, Try.ntmps106
  go_wp2_with fail
  go_loopw [3, 4, 5, 6] (fun c _ _ i wr => ∃ n : Nat, n ≤ 5 ∧ i = .int .i64 n ∧ c = .int .u64 (passk o n).2 ∧ Ps g w (passk o n).1 wr) (fun _ _ _ i _ => 5 - (intOf i).toNat)
  case atStart => exact ⟨0, by omega, rfl, rfl, HS.out⟩
  case round =>
    obtain ⟨n, hn, rfl, rfl, hp⟩ := hrel
    have H := Lib.hid hp
    clear hp HS
    by_cases hlt : n < 5
    · have hni : (n : Int) < 5 := by omega
      have HC := Lib.hid (H.out.at_.cell n hlt)
      have HX : Hid ((passk o n).1.getD n 0 + (passk o n).2 < 18446744073709551616) := by
        have h1 := passk_carry o HO.out n hn
        have h2 := passk_later o n n (Nat.le_refl _)
        have h3 := HO.out.2 n hlt
        rw [h2]
        exact Lib.hid (by omega)
      obtain ⟨on, cn, hpk⟩ : ∃ on cn, passk o n = (on, cn) := ⟨_, _, rfl⟩
      have HE : Hid (passk o (n + 1) = (on.set n ((on.getD n 0 + cn) % 2251799813685248), (on.getD n 0 + cn) / 2251799813685248)) := by
        show pstep (passk o n) n = _
        rw [hpk]
        rfl
      rw [hpk] at H HC HX ⊢
      have HL : Hid (on.length = 5) := H.out.at_.1
      clear hpk HO
      simp only at HX HC H
      generalize on.getD n 0 = a at *
      have HV : Hid (bits .and .u64 (IntKind.u64.wrap ((a : Int) + (cn : Int))) 2251799813685247 = (((a + cn) % 2251799813685248 : Nat) : Int)) := by
        have e : IntKind.u64.wrap ((a : Int) + (cn : Int)) = ((a + cn : Nat) : Int) := by rw [IntKind.wrap_u64]; have := HX.out; omega
        rw [e]
        exact and_mask _ HX.out
      have HV2 : Hid (IntKind.u64.wrap ((a : Int) + (cn : Int)) / 2251799813685248 = (((a + cn) / 2251799813685248 : Nat) : Int)) := by
        have e : IntKind.u64.wrap ((a : Int) + (cn : Int)) = ((a + cn : Nat) : Int) := by rw [IntKind.wrap_u64]; have := HX.out; omega
        rw [e]
        exact Lib.hid (by omega)
      obtain ⟨t, ht⟩ := H.out.at_.2
      have HT := Lib.hid ht
      clear ht HX
      have hc := HC.out
      go_wp2_with ((with_reducible show wpList _ _ _ (⟨none, .store 24 (.tmp 21) (.tmp 19), _, _, _, _⟩ :: _) _ _); refine wpList_store_one rfl 24 (.tmp 21) (.tmp 19) rfl g n rfl .u64 _ rfl t _ HT.out size24 (by simp only [List.size_toArray, ucs_len]; have := HL.out; omega) ?_; intro w3 hh3 hg3 hz3; have HH3 := Lib.hid hh3; have HG3 := Lib.hid hg3; clear hh3 hg3 hz3 hc HC HT)
      have HP : Hid (Ps g w (on.set n ((a + cn) % 2251799813685248)) w3) := by
        have hh := HH3.out
        rw [HV.out, ucs_set] at hh
        exact H.out.set HG3.out n _ hh
      rw [HV2.out]
      refine ⟨⟨n + 1, by omega, by go_num, ?_, ?_⟩, by simp [intOf]; omega⟩
      · rw [HE.out]
      · rw [HE.out]
        exact HP.out
    · obtain rfl : n = 5 := by omega
      go_wp2
      go_ret
      exact ⟨rfl, H.out.at_, H.out.keeps⟩
end Go.Proofs.Ytgdimnbdnepbgaa
/- The field's add. No statement is proved here. -/
namespace Go.Proofs.Ytgdimnbdnepbgaa
open Go.RowKit
set_option linter.unusedVariables false
set_option linter.unusedSimpArgs false
set_option maxRecDepth 40000

theorem pass_val (o : List Nat) (h : o.length = 5) : val5 (passk o 5).1 + (passk o 5).2 * 57896044618658097711785492504343953926634992332820282019728792003956564819968 = val5 o := by
  match o, h with
  | [a, b, c, d, e], _ =>
    simp only [passk, pstep, List.set, List.getD_cons_zero, List.getD_cons_succ, val5, Nat.add_zero]
    omega
theorem pass_bnd (o : List Nat) (h : o.length = 5) : Bnd 2251799813685248 (passk o 5).1 := by
  refine ⟨(passk_len o 5).trans h, fun i hi => ?_⟩
  match o, h with
  | [a, b, c, d, e], _ =>
    simp only [passk, pstep, List.set, List.getD_cons_zero, List.getD_cons_succ, Nat.add_zero]
    match i, hi with
    | 0, _ => simp only [List.getD_cons_zero, List.getD_cons_succ]; exact Nat.mod_lt _ (by omega)
    | 1, _ => simp only [List.getD_cons_zero, List.getD_cons_succ]; exact Nat.mod_lt _ (by omega)
    | 2, _ => simp only [List.getD_cons_zero, List.getD_cons_succ]; exact Nat.mod_lt _ (by omega)
    | 3, _ => simp only [List.getD_cons_zero, List.getD_cons_succ]; exact Nat.mod_lt _ (by omega)
    | 4, _ => simp only [List.getD_cons_zero, List.getD_cons_succ]; exact Nat.mod_lt _ (by omega)

/-- The first n words of b added to those of o. -/
def addk (o b : List Nat) : Nat → List Nat
  | 0 => o
  | n + 1 => (addk o b n).set n ((addk o b n).getD n 0 + b.getD n 0)
theorem addk_later (o b : List Nat) (n i : Nat) (h : n ≤ i) : (addk o b n).getD i 0 = o.getD i 0 := by
  induction n with
  | zero => rfl
  | succ n ih =>
    unfold addk
    simp only [List.getD_eq_getElem?_getD]
    rw [List.getElem?_set_ne (by omega)]
    have := ih (by omega)
    simpa [List.getD_eq_getElem?_getD] using this
theorem addk_val (o b : List Nat) (ho : o.length = 5) (hb : b.length = 5) : val5 (addk o b 5) = val5 o + val5 b ∧ ∀ i, i < 5 → (addk o b 5).getD i 0 = o.getD i 0 + b.getD i 0 := by
  match o, b, ho, hb with
  | [a0, a1, a2, a3, a4], [b0, b1, b2, b3, b4], _, _ =>
    simp only [addk, List.set, List.getD_cons_zero, List.getD_cons_succ, val5]
    refine ⟨by omega, fun i hi => ?_⟩
    match i, hi with
    | 0, _ => rfl
    | 1, _ => rfl
    | 2, _ => rfl
    | 3, _ => rfl
    | 4, _ => rfl

set_option maxHeartbeats 800000 in
theorem add_any (g gb : Nat) (o b : List Nat) (w : World) (hw : WAt w g o) (hwb : WAt w gb b) (hne : gb ≠ g) (ho : Bnd 4611686018427387904 o) (hb : Bnd 4611686018427387904 b) :
    Calls Try.prog 70 #[.pointer (some ⟨g, 0, none⟩), .pointer (some ⟨gb, 0, none⟩)] w (Sets g (addk o b 5) w) := by
  have HO := Lib.hid ho
  have HB := Lib.hid hb
  have HNE := Lib.hid hne
  have HWB := Lib.hid hwb
  have HS : Hid (Ps g w (addk o b 0) w) := ⟨hw, Keeps.refl _ _⟩
  clear hw ho hwb hne hb
  go_enter Try.func70, Try.ntmps70
  go_wp2_with fail
  go_loopw [4, 5] (fun _ i wr => ∃ n : Nat, n ≤ 5 ∧ i = .int .i64 n ∧ Ps g w (addk o b n) wr) (fun _ i _ => 5 - (intOf i).toNat)
  case atStart => exact ⟨0, by omega, rfl, HS.out⟩
  case round =>
    obtain ⟨n, hn, rfl, hp⟩ := hrel
    have H := Lib.hid hp
    clear hp HS
    by_cases hlt : n < 5
    · have hni : (n : Int) < 5 := by omega
      have HC := Lib.hid (H.out.at_.cell n hlt)
      have HCB := Lib.hid ((HWB.out.keeps H.out.keeps HNE.out).cell n hlt)
      have HX : Hid ((addk o b n).getD n 0 + b.getD n 0 < 18446744073709551616) := by
        have h2 := addk_later o b n n (Nat.le_refl _)
        have h3 := HO.out.2 n hlt
        have h4 := HB.out.2 n hlt
        rw [h2]
        exact Lib.hid (by omega)
      have HE : Hid (addk o b (n + 1) = (addk o b n).set n ((addk o b n).getD n 0 + b.getD n 0)) := rfl
      have HL : Hid ((addk o b n).length = 5) := H.out.at_.1
      clear HO HB
      generalize addk o b n = on at *
      generalize on.getD n 0 = a at *
      generalize b.getD n 0 = c at *
      have HV : Hid (IntKind.u64.wrap ((a : Int) + (c : Int)) = ((a + c : Nat) : Int)) := by
        have := HX.out
        exact Lib.hid (by rw [IntKind.wrap_u64]; omega)
      have hc := HC.out
      have hcb := HCB.out
      clear HX
      go_wp2_with fail
      have hc' : ({ heap := wr.heap, tape := wr.tape, drawn := wr.drawn + 1, os := wr.os, output := wr.output } : World).cell? ⟨g, n, none⟩ = some (.int .u64 (a : Int)) := hc
      have hcb' : ({ heap := wr.heap, tape := wr.tape, drawn := wr.drawn + 1, os := wr.os, output := wr.output } : World).cell? ⟨gb, n, none⟩ = some (.int .u64 (c : Int)) := hcb
      go_still_tail 13, (by kernel_rfl)
      clear hc hcb hc' hcb' HC HCB
      have HD : Hid (Ps g w on { heap := wr.heap, tape := wr.tape, drawn := wr.drawn + 1, os := wr.os, output := wr.output }) := H.out.drewN 1
      clear H
      generalize ({ heap := wr.heap, tape := wr.tape, drawn := wr.drawn + 1, os := wr.os, output := wr.output } : World) = wd at *
      obtain ⟨t, ht⟩ := HD.out.at_.2
      refine wpList_store_one rfl 24 (.tmp 20) (.tmp 18) rfl g n rfl .u64 _ rfl t _ ht size24 (by simp only [List.size_toArray, ucs_len]; have := HL.out; omega) ?_
      intro w3 hh hg hz
      rw [HV.out, ucs_set] at hh
      have HP := Lib.hid (HD.out.set hg n _ hh)
      clear hh hg hz ht HD HV
      go_wp2
      refine ⟨⟨n + 1, by omega, by go_num, ?_⟩, by simp [intOf]; omega⟩
      rw [HE.out]
      exact HP.out
    · obtain rfl : n = 5 := by omega
      go_wp2
      refine bodyPost_end (results_none rfl _ _ _) rfl ?_
      exact ⟨rfl, H.out.at_, H.out.keeps⟩
end Go.Proofs.Ytgdimnbdnepbgaa
/- The field's sub. No statement is proved here. -/
namespace Go.Proofs.Ytgdimnbdnepbgaa
open Go.RowKit
set_option linter.unusedVariables false
set_option linter.unusedSimpArgs false
set_option maxRecDepth 40000

/-- The words of 4p. -/
def k4 (n : Nat) : Nat := if n = 0 then 9007199254740916 else 9007199254740988
/-- The first n words of b taken from those of o, 4p added. -/
def subk (o b : List Nat) : Nat → List Nat
  | 0 => o
  | n + 1 => (subk o b n).set n ((subk o b n).getD n 0 + (k4 n - b.getD n 0))
theorem subk_later (o b : List Nat) (n i : Nat) (h : n ≤ i) : (subk o b n).getD i 0 = o.getD i 0 := by
  induction n with
  | zero => rfl
  | succ n ih =>
    unfold subk
    simp only [List.getD_eq_getElem?_getD]
    rw [List.getElem?_set_ne (by omega)]
    have := ih (by omega)
    simpa [List.getD_eq_getElem?_getD] using this
theorem subk_val (o b : List Nat) (ho : o.length = 5) (hb : Bnd 9007199254740900 b) : val5 (subk o b 5) + val5 b = val5 o + 231584178474632390847141970017375815706539969331281128078915168015826259279796 ∧ ∀ i, i < 5 → (subk o b 5).getD i 0 ≤ o.getD i 0 + 9007199254740988 := by
  obtain ⟨hl, hlt⟩ := hb
  match o, b, ho, hl with
  | [a0, a1, a2, a3, a4], [b0, b1, b2, b3, b4], _, _ =>
    have h0 := hlt 0 (by omega)
    have h1 := hlt 1 (by omega)
    have h2 := hlt 2 (by omega)
    have h3 := hlt 3 (by omega)
    have h4 := hlt 4 (by omega)
    simp only [List.getD_cons_zero, List.getD_cons_succ] at h0 h1 h2 h3 h4
    have e : subk [a0, a1, a2, a3, a4] [b0, b1, b2, b3, b4] 5 = [a0 + (9007199254740916 - b0), a1 + (9007199254740988 - b1), a2 + (9007199254740988 - b2), a3 + (9007199254740988 - b3), a4 + (9007199254740988 - b4)] := rfl
    rw [e]
    refine ⟨by simp only [val5]; omega, fun i hi => ?_⟩
    match i, hi with
    | 0, _ => simp only [List.getD_cons_zero, List.getD_cons_succ]; omega
    | 1, _ => simp only [List.getD_cons_zero, List.getD_cons_succ]; omega
    | 2, _ => simp only [List.getD_cons_zero, List.getD_cons_succ]; omega
    | 3, _ => simp only [List.getD_cons_zero, List.getD_cons_succ]; omega
    | 4, _ => simp only [List.getD_cons_zero, List.getD_cons_succ]; omega
theorem sub_word (a c k : Nat) (hc : c ≤ k) (hk : k < 9223372036854775808) (ha : a < 9223372036854775808) :
    IntKind.u64.wrap ((a : Int) + IntKind.u64.wrap ((k : Int) - (c : Int))) = ((a + (k - c) : Nat) : Int) := by
  rw [IntKind.wrap_u64, IntKind.wrap_u64]; omega

set_option maxHeartbeats 800000 in
theorem sub_any (g gb : Nat) (o b : List Nat) (w : World) (hw : WAt w g o) (hwb : WAt w gb b) (hne : gb ≠ g) (ho : Bnd 9223372036854775808 o) (hb : Bnd 9007199254740900 b) :
    Calls Try.prog 72 #[.pointer (some ⟨g, 0, none⟩), .pointer (some ⟨gb, 0, none⟩)] w (Sets g (subk o b 5) w) := by
  have HO := Lib.hid ho
  have HB := Lib.hid hb
  have HNE := Lib.hid hne
  have HWB := Lib.hid hwb
  have HS : Hid (Ps g w (subk o b 0) w) := ⟨hw, Keeps.refl _ _⟩
  clear hw ho hwb hne hb
  have HC := Lib.hid (HS.out.at_.cell 0 (by omega))
  have HCB := Lib.hid (HWB.out.cell 0 (by omega))
  have HE : Hid (subk o b 1 = (subk o b 0).set 0 ((subk o b 0).getD 0 0 + (9007199254740916 - b.getD 0 0))) := rfl
  have HV : Hid (IntKind.u64.wrap (((subk o b 0).getD 0 0 : Int) + IntKind.u64.wrap ((9007199254740916 : Int) - (b.getD 0 0 : Int))) = (((subk o b 0).getD 0 0 + (9007199254740916 - b.getD 0 0) : Nat) : Int)) :=
    sub_word ((subk o b 0).getD 0 0) (b.getD 0 0) 9007199254740916 (by have := HB.out.2 0 (by omega); omega) (by omega) (by have := HO.out.2 0 (by omega); rw [subk_later o b 0 0 (by omega)]; exact this)
  have HL : Hid ((subk o b 0).length = 5) := HS.out.at_.1
  generalize hs0 : subk o b 0 = on at HC HE HV HL HS
  clear hs0
  generalize on.getD 0 0 = a at *
  generalize hb0 : b.getD 0 0 = c at HCB HE HV
  clear hb0
  go_enter Try.func72, Try.ntmps72
  have hc := HC.out
  have hcb := HCB.out
  have hc' : ({ heap := w.heap, tape := w.tape, drawn := w.drawn + 1, os := w.os, output := w.output } : World).cell? ⟨g, 0, none⟩ = some (.int .u64 (a : Int)) := hc
  have hcb' : ({ heap := w.heap, tape := w.tape, drawn := w.drawn + 1, os := w.os, output := w.output } : World).cell? ⟨gb, 0, none⟩ = some (.int .u64 (c : Int)) := hcb
  go_wp2_with fail
  go_still_tail 12, (by kernel_rfl)
  clear hc hcb hc' hcb' HC HCB
  have HD : Hid (Ps g w on { heap := w.heap, tape := w.tape, drawn := w.drawn + 1, os := w.os, output := w.output }) := HS.out.drewN 1
  clear HS
  generalize ({ heap := w.heap, tape := w.tape, drawn := w.drawn + 1, os := w.os, output := w.output } : World) = wd at *
  obtain ⟨t, ht⟩ := HD.out.at_.2
  refine wpList_store_one rfl 24 (.tmp 16) (.tmp 14) rfl g 0 rfl .u64 _ rfl t _ ht size24 (by simp only [List.size_toArray, ucs_len]; have := HL.out; omega) ?_
  intro w3 hh hg hz
  rw [HV.out, ucs_set] at hh
  have HP0 := Lib.hid (HD.out.set hg 0 _ hh)
  have HP : Hid (Ps g w (subk o b 1) w3) := by
    rw [HE.out]
    exact HP0
  clear hh hg hz ht HD HV HE HL HP0
  go_wp2_with fail
  go_loopw [4] (fun i wr => ∃ n : Nat, 1 ≤ n ∧ n ≤ 5 ∧ i = .int .i64 n ∧ Ps g w (subk o b n) wr) (fun i _ => 5 - (intOf i).toNat)
  case atStart => exact ⟨1, by omega, by omega, rfl, HP.out⟩
  case round =>
    obtain ⟨n, hn1, hn, rfl, hp⟩ := hrel
    have H := Lib.hid hp
    clear hp HP
    by_cases hlt : n < 5
    · have hni : (n : Int) < 5 := by omega
      have HC := Lib.hid (H.out.at_.cell n hlt)
      have HCB := Lib.hid ((HWB.out.keeps H.out.keeps HNE.out).cell n hlt)
      have HE : Hid (subk o b (n + 1) = (subk o b n).set n ((subk o b n).getD n 0 + (9007199254740988 - b.getD n 0))) := by
        have e : k4 n = 9007199254740988 := by unfold k4; rw [if_neg (by omega)]
        have e2 : subk o b (n + 1) = (subk o b n).set n ((subk o b n).getD n 0 + (k4 n - b.getD n 0)) := rfl
        rw [e] at e2
        exact e2
      have HV : Hid (IntKind.u64.wrap (((subk o b n).getD n 0 : Int) + IntKind.u64.wrap ((9007199254740988 : Int) - (b.getD n 0 : Int))) = (((subk o b n).getD n 0 + (9007199254740988 - b.getD n 0) : Nat) : Int)) :=
        sub_word ((subk o b n).getD n 0) (b.getD n 0) 9007199254740988 (by have := HB.out.2 n hlt; omega) (by omega) (by have := HO.out.2 n hlt; rw [subk_later o b n n (by omega)]; exact this)
      have HL : Hid ((subk o b n).length = 5) := H.out.at_.1
      clear HO HB
      generalize subk o b n = on at *
      generalize on.getD n 0 = a at *
      generalize b.getD n 0 = c at *
      have hc := HC.out
      have hcb := HCB.out
      go_wp2_with fail
      have hc' : ({ heap := wr.heap, tape := wr.tape, drawn := wr.drawn + 1, os := wr.os, output := wr.output } : World).cell? ⟨g, n, none⟩ = some (.int .u64 (a : Int)) := hc
      have hcb' : ({ heap := wr.heap, tape := wr.tape, drawn := wr.drawn + 1, os := wr.os, output := wr.output } : World).cell? ⟨gb, n, none⟩ = some (.int .u64 (c : Int)) := hcb
      go_still_tail 14, (by kernel_rfl)
      clear hc hcb hc' hcb' HC HCB
      have HD : Hid (Ps g w on { heap := wr.heap, tape := wr.tape, drawn := wr.drawn + 1, os := wr.os, output := wr.output }) := H.out.drewN 1
      clear H
      generalize ({ heap := wr.heap, tape := wr.tape, drawn := wr.drawn + 1, os := wr.os, output := wr.output } : World) = wd at *
      obtain ⟨t, ht⟩ := HD.out.at_.2
      refine wpList_store_one rfl 24 (.tmp 34) (.tmp 32) rfl g n rfl .u64 _ rfl t _ ht size24 (by simp only [List.size_toArray, ucs_len]; have := HL.out; omega) ?_
      intro w3 hh hg hz
      rw [HV.out, ucs_set] at hh
      have HP := Lib.hid (HD.out.set hg n _ hh)
      clear hh hg hz ht HD HV
      go_wp2
      refine ⟨⟨n + 1, by omega, by omega, by go_num, ?_⟩, by simp [intOf]; omega⟩
      rw [HE.out]
      exact HP.out
    · obtain rfl : n = 5 := by omega
      go_wp2
      refine bodyPost_end (results_none rfl _ _ _) rfl ?_
      exact ⟨rfl, H.out.at_, H.out.keeps⟩
end Go.Proofs.Ytgdimnbdnepbgaa
/- The field's writer of eight bytes. No statement is proved here. -/
namespace Go.Proofs.Ytgdimnbdnepbgaa
open Go.RowKit
set_option linter.unusedVariables false
set_option linter.unusedSimpArgs false
set_option maxRecDepth 40000

theorem bcs_set (l : List UInt8) (j : Nat) (x : UInt8) : (bcs l).toArray.setIfInBounds j (.int .u8 (x.toNat : Int)) = (bcs (l.set j x)).toArray := by
  apply Array.toList_inj.1
  rw [Array.toList_setIfInBounds]
  simp [bcs, bc, List.map_set]
theorem byte_at (n m k : Nat) (hm : m = 2 ^ k) : ((n : Int) / (m : Int)) % 256 = ((UInt8.ofNat (n / m)).toNat : Int) := by
  rw [UInt8.toNat_ofNat']
  simp
theorem byte_at0 (n : Nat) : (n : Int) % 256 = ((UInt8.ofNat n).toNat : Int) := by
  rw [UInt8.toNat_ofNat']
  simp
/-- l with the bytes of n from o on. -/
def put8 (l : List UInt8) (o n : Nat) : List UInt8 :=
  (((((((l.set o (UInt8.ofNat n)).set (o + 1) (UInt8.ofNat (n / 256))).set (o + 2) (UInt8.ofNat (n / 65536))).set (o + 3) (UInt8.ofNat (n / 16777216))).set (o + 4) (UInt8.ofNat (n / 4294967296))).set (o + 5) (UInt8.ofNat (n / 1099511627776))).set (o + 6) (UInt8.ofNat (n / 281474976710656))).set (o + 7) (UInt8.ofNat (n / 72057594037927936))
theorem size5 : (Try.prog.info? 5).map (·.size) = some 1 := by kernel_rfl

/-- Bytes l lie in row g, and nothing else has changed. -/
structure Pb (g : Nat) (w : World) (m : Nat) (l : List UInt8) (w' : World) : Prop where
  len : l.length = m
  row : ∃ t, w'.heap[g]? = some (.cells (bcs l).toArray t (0, 0))
  keeps : Keeps (· = g) w w'
theorem Pb.set {g m : Nat} {w : World} {l : List UInt8} {w' w'' : World} {t : TypeId} (h : Pb g w m l w') (hg : w'.grownBy w'' (some g)) (i : Nat) (x : UInt8) (hh : w''.heap[g]? = some (.cells (bcs (l.set i x)).toArray t (0, 0))) : Pb g w m (l.set i x) w'' :=
  ⟨by rw [List.length_set]; exact h.len, ⟨t, hh⟩, h.keeps.trans (Keeps.of_grown hg (fun r hr => by injection hr with hr; exact hr.symm))⟩
theorem Pb.cell {g m : Nat} {w : World} {l : List UInt8} {w' : World} (h : Pb g w m l w') (i : Nat) (hi : i < m) : w'.cell? ⟨g, i, none⟩ = some (.int .u8 (bt l i)) := by
  obtain ⟨t, ht⟩ := h.row
  have hl := h.len
  refine row_cells ht i _ ?_
  rw [List.toList_toArray, bcs_get]
  unfold bt
  rw [List.getD_eq_getElem?_getD, List.getElem?_eq_getElem (by omega)]
  rfl

set_option maxHeartbeats 1600000 in
theorem setQuad_core (g o c m n : Nat) (b0 b1 b2 b3 b4 b5 b6 b7 : UInt8) (l : List UInt8) (w : World) (hm : o + 8 ≤ m) (S0 : Hid (Pb g w m l w))
    (V0 : Hid ((n : Int) % 256 = (b0.toNat : Int)))
    (V1 : Hid (((n : Int) / 256) % 256 = (b1.toNat : Int)))
    (V2 : Hid (((n : Int) / 65536) % 256 = (b2.toNat : Int)))
    (V3 : Hid (((n : Int) / 16777216) % 256 = (b3.toNat : Int)))
    (V4 : Hid (((n : Int) / 4294967296) % 256 = (b4.toNat : Int)))
    (V5 : Hid (((n : Int) / 1099511627776) % 256 = (b5.toNat : Int)))
    (V6 : Hid (((n : Int) / 281474976710656) % 256 = (b6.toNat : Int)))
    (V7 : Hid (((n : Int) / 72057594037927936) % 256 = (b7.toNat : Int)))
    : Calls Try.prog 69 #[.slice (some ⟨g, o, none⟩) 8 c, .int .u64 n] w fun e w' => e = .returned (.tuple #[]) ∧ Pb g w m ((((((((l.set o b0).set (o + 1) b1).set (o + 2) b2).set (o + 3) b3).set (o + 4) b4).set (o + 5) b5).set (o + 6) b6).set (o + 7) b7) w' := by
  have hc7 := S0.out.cell (o + 7) (by omega)
  go_enter Try.func69, Try.ntmps69
  have HM := Lib.hid hm
  clear hm
  go_wp2_with (first | ((with_reducible show wpList _ _ _ (⟨none, .store 5 (.tmp 10) (.tmp 9), _, _, _, _⟩ :: _) _ _); go_must (obtain ⟨t0, ht0⟩ := S0.out.row; have hl0 := S0.out.len; have hm := HM.out; refine wpList_store_one rfl 5 (.tmp 10) (.tmp 9) rfl g o rfl .u8 _ rfl t0 _ ht0 size5 (by simp only [List.size_toArray, bcs_len]; omega) ?_; intro y0 hh hg hz; rw [V0.out, bcs_set] at hh; have S1 := Lib.hid (S0.out.set hg o b0 hh); clear hh hg hz ht0 hl0 hm S0; clear hc7)) | ((with_reducible show wpList _ _ _ (⟨none, .store 5 (.tmp 15) (.tmp 14), _, _, _, _⟩ :: _) _ _); go_must (obtain ⟨t1, ht1⟩ := S1.out.row; have hl1 := S1.out.len; have hm := HM.out; refine wpList_store_one rfl 5 (.tmp 15) (.tmp 14) rfl g (o + 1) rfl .u8 _ rfl t1 _ ht1 size5 (by simp only [List.size_toArray, bcs_len]; omega) ?_; intro y1 hh hg hz; rw [V1.out, bcs_set] at hh; have S2 := Lib.hid (S1.out.set hg (o + 1) b1 hh); clear hh hg hz ht1 hl1 hm S1)) | ((with_reducible show wpList _ _ _ (⟨none, .store 5 (.tmp 20) (.tmp 19), _, _, _, _⟩ :: _) _ _); go_must (obtain ⟨t2, ht2⟩ := S2.out.row; have hl2 := S2.out.len; have hm := HM.out; refine wpList_store_one rfl 5 (.tmp 20) (.tmp 19) rfl g (o + 2) rfl .u8 _ rfl t2 _ ht2 size5 (by simp only [List.size_toArray, bcs_len]; omega) ?_; intro y2 hh hg hz; rw [V2.out, bcs_set] at hh; have S3 := Lib.hid (S2.out.set hg (o + 2) b2 hh); clear hh hg hz ht2 hl2 hm S2)) | ((with_reducible show wpList _ _ _ (⟨none, .store 5 (.tmp 25) (.tmp 24), _, _, _, _⟩ :: _) _ _); go_must (obtain ⟨t3, ht3⟩ := S3.out.row; have hl3 := S3.out.len; have hm := HM.out; refine wpList_store_one rfl 5 (.tmp 25) (.tmp 24) rfl g (o + 3) rfl .u8 _ rfl t3 _ ht3 size5 (by simp only [List.size_toArray, bcs_len]; omega) ?_; intro y3 hh hg hz; rw [V3.out, bcs_set] at hh; have S4 := Lib.hid (S3.out.set hg (o + 3) b3 hh); clear hh hg hz ht3 hl3 hm S3)) | ((with_reducible show wpList _ _ _ (⟨none, .store 5 (.tmp 30) (.tmp 29), _, _, _, _⟩ :: _) _ _); go_must (obtain ⟨t4, ht4⟩ := S4.out.row; have hl4 := S4.out.len; have hm := HM.out; refine wpList_store_one rfl 5 (.tmp 30) (.tmp 29) rfl g (o + 4) rfl .u8 _ rfl t4 _ ht4 size5 (by simp only [List.size_toArray, bcs_len]; omega) ?_; intro y4 hh hg hz; rw [V4.out, bcs_set] at hh; have S5 := Lib.hid (S4.out.set hg (o + 4) b4 hh); clear hh hg hz ht4 hl4 hm S4)) | ((with_reducible show wpList _ _ _ (⟨none, .store 5 (.tmp 35) (.tmp 34), _, _, _, _⟩ :: _) _ _); go_must (obtain ⟨t5, ht5⟩ := S5.out.row; have hl5 := S5.out.len; have hm := HM.out; refine wpList_store_one rfl 5 (.tmp 35) (.tmp 34) rfl g (o + 5) rfl .u8 _ rfl t5 _ ht5 size5 (by simp only [List.size_toArray, bcs_len]; omega) ?_; intro y5 hh hg hz; rw [V5.out, bcs_set] at hh; have S6 := Lib.hid (S5.out.set hg (o + 5) b5 hh); clear hh hg hz ht5 hl5 hm S5)) | ((with_reducible show wpList _ _ _ (⟨none, .store 5 (.tmp 40) (.tmp 39), _, _, _, _⟩ :: _) _ _); go_must (obtain ⟨t6, ht6⟩ := S6.out.row; have hl6 := S6.out.len; have hm := HM.out; refine wpList_store_one rfl 5 (.tmp 40) (.tmp 39) rfl g (o + 6) rfl .u8 _ rfl t6 _ ht6 size5 (by simp only [List.size_toArray, bcs_len]; omega) ?_; intro y6 hh hg hz; rw [V6.out, bcs_set] at hh; have S7 := Lib.hid (S6.out.set hg (o + 6) b6 hh); clear hh hg hz ht6 hl6 hm S6)) | ((with_reducible show wpList _ _ _ (⟨none, .store 5 (.tmp 45) (.tmp 44), _, _, _, _⟩ :: _) _ _); go_must (obtain ⟨t7, ht7⟩ := S7.out.row; have hl7 := S7.out.len; have hm := HM.out; refine wpList_store_one rfl 5 (.tmp 45) (.tmp 44) rfl g (o + 7) rfl .u8 _ rfl t7 _ ht7 size5 (by simp only [List.size_toArray, bcs_len]; omega) ?_; intro y7 hh hg hz; rw [V7.out, bcs_set] at hh; have S8 := Lib.hid (S7.out.set hg (o + 7) b7 hh); clear hh hg hz ht7 hl7 hm S7)))
  refine bodyPost_end (results_none rfl _ _ _) rfl ?_
  exact ⟨rfl, S8.out⟩

theorem setQuad_any (g o c m n : Nat) (l : List UInt8) (w : World) (hm : o + 8 ≤ m) (h : Pb g w m l w) :
    Calls Try.prog 69 #[.slice (some ⟨g, o, none⟩) 8 c, .int .u64 n] w fun e w' => e = .returned (.tuple #[]) ∧ Pb g w m (put8 l o n) w' :=
  setQuad_core g o c m n _ _ _ _ _ _ _ _ l w hm (Lib.hid h) (Lib.hid (byte_at0 n)) (Lib.hid (byte_at n 256 8 rfl)) (Lib.hid (byte_at n 65536 16 rfl)) (Lib.hid (byte_at n 16777216 24 rfl)) (Lib.hid (byte_at n 4294967296 32 rfl)) (Lib.hid (byte_at n 1099511627776 40 rfl)) (Lib.hid (byte_at n 281474976710656 48 rfl)) (Lib.hid (byte_at n 72057594037927936 56 rfl))
end Go.Proofs.Ytgdimnbdnepbgaa
/- The field's wrap. No statement is proved here. -/
namespace Go.Proofs.Ytgdimnbdnepbgaa
open Go.RowKit
set_option linter.unusedVariables false
set_option linter.unusedSimpArgs false
set_option maxRecDepth 40000

/-- What wrap leaves. -/
def wrapL (o : List Nat) : List Nat := (passk o 5).1.set 0 ((passk o 5).1.getD 0 0 + 19 * (passk o 5).2)

set_option maxHeartbeats 400000 in
theorem wrap_core (g : Nat) (o o1 : List Nat) (c a r : Nat) (w : World) (hl : Hid (o1.length = 5)) (ha : Hid (o1.getD 0 0 = a)) (hr : Hid (IntKind.u64.wrap ((a : Int) + IntKind.u64.wrap (19 * (c : Int))) = (r : Int)))
    (HP : Hid (Calls Try.prog 106 #[.pointer (some ⟨g, 0, none⟩)] w fun e w' => e = .returned (.int .u64 c) ∧ WAt w' g o1 ∧ Keeps (· = g) w w')) :
    Calls Try.prog 98 #[.pointer (some ⟨g, 0, none⟩)] w (Sets g (o1.set 0 r) w) := by
  go_enter Try.func98, Try.ntmps98
  go_wp2_with fail
  refine (HP.out).mono ?_
  rintro e w1 ⟨rfl, hw, hk⟩
  have HW := Lib.hid hw
  have HK := Lib.hid hk
  clear hw hk HP
  go_wp2_with fail
  have HC := Lib.hid (HW.out.cell 0 (by omega))
  rw [ha.out] at HC
  have hc := HC.out
  have hc' : ({ heap := w1.heap, tape := w1.tape, drawn := w1.drawn + 1, os := w1.os, output := w1.output } : World).cell? ⟨g, 0, none⟩ = some (.int .u64 (a : Int)) := hc
  go_still_tail 9, (by kernel_rfl)
  clear hc hc' HC
  have HD : Hid (Ps g w o1 { heap := w1.heap, tape := w1.tape, drawn := w1.drawn + 1, os := w1.os, output := w1.output }) := (Ps.mk HW.out HK.out).drewN 1
  clear HW HK
  generalize ({ heap := w1.heap, tape := w1.tape, drawn := w1.drawn + 1, os := w1.os, output := w1.output } : World) = wd at *
  obtain ⟨t, ht⟩ := HD.out.at_.2
  refine wpList_store_one rfl 24 (.tmp 13) (.tmp 11) rfl g 0 rfl .u64 _ rfl t _ ht size24 (by simp only [List.size_toArray, ucs_len]; have := hl.out; omega) ?_
  intro w3 hh hg hz
  rw [hr.out, ucs_set] at hh
  have HP0 := Lib.hid (HD.out.set hg 0 _ hh)
  clear hh hg hz ht HD hr
  go_wp2_with fail
  refine bodyPost_end (results_none rfl _ _ _) rfl ?_
  exact ⟨rfl, HP0.out.at_, HP0.out.keeps⟩

theorem wrap_any (g : Nat) (o : List Nat) (w : World) (hw : WAt w g o) (ho : Bnd 9223372036854775808 o) :
    Calls Try.prog 98 #[.pointer (some ⟨g, 0, none⟩)] w (Sets g (wrapL o) w) := by
  have hc := passk_carry o ho 5 (Nat.le_refl _)
  have hb := (pass_bnd o ho.1).2 0 (by omega)
  refine wrap_core g o (passk o 5).1 (passk o 5).2 ((passk o 5).1.getD 0 0) _ w ((passk_len o 5).trans ho.1) rfl ?_ (pass_any g o w hw ho)
  generalize (passk o 5).2 = c at *
  generalize (passk o 5).1.getD 0 0 = a at *
  exact Lib.hid (by rw [IntKind.wrap_u64, IntKind.wrap_u64]; omega)
theorem set0_val (o : List Nat) (x : Nat) (h : o.length = 5) : val5 (o.set 0 (o.getD 0 0 + x)) = val5 o + x := by
  match o, h with
  | [a, b, c, d, e], _ =>
    simp only [List.set, List.getD_cons_zero, val5]
    omega
/-- Wrapping keeps the residue, and leaves words of little more than 51 bits. -/
theorem wrap_val (o : List Nat) (ho : Bnd 9223372036854775808 o) :
    ∃ q, val5 (wrapL o) + q * 57896044618658097711785492504343953926634992332820282019728792003956564819949 = val5 o ∧ Bnd 2251799813763072 (wrapL o) ∧
      val5 (wrapL o) < 57896044618658097711785492504343953926634992332820282019728792003956564897792 := by
  have h1 := pass_val o ho.1
  have hc := passk_carry o ho 5 (Nat.le_refl _)
  have hb := pass_bnd o ho.1
  unfold wrapL
  generalize (passk o 5).2 = c at *
  generalize (passk o 5).1 = o1 at *
  have hv := set0_val o1 (19 * c) hb.1
  have hlt : val5 o1 < 57896044618658097711785492504343953926634992332820282019728792003956564819968 := by
    obtain ⟨hl, hb⟩ := hb
    match o1, hl with
    | [x0, x1, x2, x3, x4], _ =>
      have h0 := hb 0 (by omega)
      have h1 := hb 1 (by omega)
      have h2 := hb 2 (by omega)
      have h3 := hb 3 (by omega)
      have h4 := hb 4 (by omega)
      simp only [List.getD_cons_zero, List.getD_cons_succ] at h0 h1 h2 h3 h4
      simp only [val5]
      omega
  refine ⟨c, by rw [hv]; omega, ⟨by rw [List.length_set]; exact hb.1, fun i hi => ?_⟩, by rw [hv]; omega⟩
  have := hb.2 i hi
  have hl := hb.1
  rw [List.getD_eq_getElem?_getD, List.getElem?_set]
  split
  · rename_i h
    have h0 := hb.2 0 (by omega)
    rw [if_pos (by omega)]
    simp only [Option.getD_some]
    omega
  · rw [← List.getD_eq_getElem?_getD]
    omega
end Go.Proofs.Ytgdimnbdnepbgaa
/- The field's mul, walked over variables. No statement is proved here. -/
namespace Go.Proofs.Ytgdimnbdnepbgaa
open Go.RowKit
set_option linter.unusedVariables false
set_option linter.unusedSimpArgs false
set_option maxRecDepth 40000

theorem WAt.drewN {w : World} {g : Nat} {o : List Nat} (h : WAt w g o) (n : Nat) : WAt (w.drewN n) g o := h
theorem WAt.drew1 {w : World} {g : Nat} {o : List Nat} (h : WAt w g o) : WAt { heap := w.heap, tape := w.tape, drawn := w.drawn + 1, os := w.os, output := w.output } g o := h
theorem NumAt.drew1 {w : World} {g : Nat} {l : List UInt8} (h : NumAt w g l) : NumAt { heap := w.heap, tape := w.tape, drawn := w.drawn + 1, os := w.os, output := w.output } g l := h

set_option maxHeartbeats 4000000 in
set_option maxRecDepth 100000 in
theorem mul_core (g ga gb : Nat) (o al : List Nat) (b0 b1 b2 b3 b4 c1 c2 c3 c4 H0 L0 H1 L1 H2 L2 H3 L3 H4 L4 y0 y1 y2 y3 y4 m0 r0 r1 r2 r3 r4 : Nat) (R : List Nat) (w : World)
    (HW : Hid (WAt w g o)) (HA : Hid (WAt w ga al)) (HB : Hid (WAt w gb [b0, b1, b2, b3, b4]))
    (C1 : Hid (IntKind.u64.wrap (19 * (b1 : Int)) = (c1 : Int))) (C2 : Hid (IntKind.u64.wrap (19 * (b2 : Int)) = (c2 : Int))) (C3 : Hid (IntKind.u64.wrap (19 * (b3 : Int)) = (c3 : Int))) (C4 : Hid (IntKind.u64.wrap (19 * (b4 : Int)) = (c4 : Int)))
    (S0 : Hid (∀ w', WAt w' ga al → Calls Try.prog 96 #[.pointer (some ⟨ga, 0, none⟩), .int .u64 b0, .int .u64 c4, .int .u64 c3, .int .u64 c2, .int .u64 c1] w' fun e w'' => e = .returned (.tuple #[.int .u64 H0, .int .u64 L0]) ∧ w'' = w'))
    (S1 : Hid (∀ w', WAt w' ga al → Calls Try.prog 96 #[.pointer (some ⟨ga, 0, none⟩), .int .u64 b1, .int .u64 b0, .int .u64 c4, .int .u64 c3, .int .u64 c2] w' fun e w'' => e = .returned (.tuple #[.int .u64 H1, .int .u64 L1]) ∧ w'' = w'))
    (S2 : Hid (∀ w', WAt w' ga al → Calls Try.prog 96 #[.pointer (some ⟨ga, 0, none⟩), .int .u64 b2, .int .u64 b1, .int .u64 b0, .int .u64 c4, .int .u64 c3] w' fun e w'' => e = .returned (.tuple #[.int .u64 H2, .int .u64 L2]) ∧ w'' = w'))
    (S3 : Hid (∀ w', WAt w' ga al → Calls Try.prog 96 #[.pointer (some ⟨ga, 0, none⟩), .int .u64 b3, .int .u64 b2, .int .u64 b1, .int .u64 b0, .int .u64 c4] w' fun e w'' => e = .returned (.tuple #[.int .u64 H3, .int .u64 L3]) ∧ w'' = w'))
    (S4 : Hid (∀ w', WAt w' ga al → Calls Try.prog 96 #[.pointer (some ⟨ga, 0, none⟩), .int .u64 b4, .int .u64 b3, .int .u64 b2, .int .u64 b1, .int .u64 b0] w' fun e w'' => e = .returned (.tuple #[.int .u64 H4, .int .u64 L4]) ∧ w'' = w'))
    (Y0 : Hid (∀ w, Calls Try.prog 97 #[.int .u64 H0, .int .u64 L0] w fun e w' => e = .returned (.int .u64 y0) ∧ w' = w))
    (Y1 : Hid (∀ w, Calls Try.prog 97 #[.int .u64 H1, .int .u64 L1] w fun e w' => e = .returned (.int .u64 y1) ∧ w' = w))
    (Y2 : Hid (∀ w, Calls Try.prog 97 #[.int .u64 H2, .int .u64 L2] w fun e w' => e = .returned (.int .u64 y2) ∧ w' = w))
    (Y3 : Hid (∀ w, Calls Try.prog 97 #[.int .u64 H3, .int .u64 L3] w fun e w' => e = .returned (.int .u64 y3) ∧ w' = w))
    (Y4 : Hid (∀ w, Calls Try.prog 97 #[.int .u64 H4, .int .u64 L4] w fun e w' => e = .returned (.int .u64 y4) ∧ w' = w))
    (V0 : Hid (bits .and .u64 (L0 : Int) 2251799813685247 = (m0 : Int)))
    (V1 : Hid (IntKind.u64.wrap (bits .and .u64 (L1 : Int) 2251799813685247 + (y0 : Int)) = (r1 : Int)))
    (V2 : Hid (IntKind.u64.wrap (bits .and .u64 (L2 : Int) 2251799813685247 + (y1 : Int)) = (r2 : Int)))
    (V3 : Hid (IntKind.u64.wrap (bits .and .u64 (L3 : Int) 2251799813685247 + (y2 : Int)) = (r3 : Int)))
    (V4 : Hid (IntKind.u64.wrap (bits .and .u64 (L4 : Int) 2251799813685247 + (y3 : Int)) = (r4 : Int)))
    (V5 : Hid (IntKind.u64.wrap ((m0 : Int) + IntKind.u64.wrap (19 * (y4 : Int))) = (r0 : Int)))
    (HR : Hid (∀ w', WAt w' g [r0, r1, r2, r3, r4] → Calls Try.prog 98 #[.pointer (some ⟨g, 0, none⟩)] w' (Sets g R w'))) :
    Calls Try.prog 74 #[.pointer (some ⟨g, 0, none⟩), .pointer (some ⟨ga, 0, none⟩), .pointer (some ⟨gb, 0, none⟩)] w (Sets g R w) := by
  have q0 := HB.out.cell 0 (by omega)
  have q1 := HB.out.cell 1 (by omega)
  have q2 := HB.out.cell 2 (by omega)
  have q3 := HB.out.cell 3 (by omega)
  have q4 := HB.out.cell 4 (by omega)
  simp only [List.getD_cons_zero, List.getD_cons_succ] at q0 q1 q2 q3 q4
  go_enter Try.func74, Try.ntmps74
  go_wp2_with fail
  go_quiet (fail)
  obtain ⟨wq, hwq⟩ : ∃ wq, wq = w.drewN nq := ⟨_, rfl⟩
  have HPq : Hid (Ps g w o wq) := by rw [hwq]; exact (Ps.mk HW.out (Keeps.refl _ _)).drewN nq
  have HAq : Hid (WAt wq ga al) := by rw [hwq]; exact HA.out.drewN nq
  rw [← hwq]
  clear hwq q0 q1 q2 q3 q4 HB HA HW
  go_wp2_with fail
  rw [C1.out, C2.out, C3.out, C4.out]
  clear C1 C2 C3 C4
  refine (S0.out _ HAq.out).mono ?_
  rintro e w' ⟨rfl, hw'⟩
  subst w'
  go_wp2_with fail
  refine (S1.out _ HAq.out).mono ?_
  rintro e w' ⟨rfl, hw'⟩
  subst w'
  go_wp2_with fail
  refine (S2.out _ HAq.out).mono ?_
  rintro e w' ⟨rfl, hw'⟩
  subst w'
  go_wp2_with fail
  refine (S3.out _ HAq.out).mono ?_
  rintro e w' ⟨rfl, hw'⟩
  subst w'
  go_wp2_with fail
  refine (S4.out _ HAq.out).mono ?_
  rintro e w' ⟨rfl, hw'⟩
  subst w'
  clear S0 S1 S2 S3 S4 HAq
  go_wp2_with ((with_reducible show wpList _ _ _ (⟨none, .store 24 (.tmp 107) (.tmp 105), _, _, _, _⟩ :: _) _ _); go_must (obtain ⟨t0, ht0⟩ := HPq.out.at_.2; refine wpList_store_one rfl 24 (.tmp 107) (.tmp 105) rfl g 0 rfl .u64 _ rfl t0 _ ht0 size24 (by simp only [List.size_toArray, ucs_len]; have := HPq.out.at_.1; omega) ?_; intro x0 hh hg hz; rw [V0.out, ucs_set] at hh; have P0 := Lib.hid (HPq.out.set hg 0 m0 hh); clear hh hg hz ht0 HPq V0))
  refine wp_region_still_tail 9 (by kernel_rfl) (by kernel_rfl) ?_
  simp only [List.take_succ_cons, List.take_zero, List.drop_succ_cons, List.drop_zero]
  repeat (first | still_step | (refine wpStill_step (fun K hK => ?_); go_simp; (with_reducible refine ⟨_, Y0.out _, hK _ ?_⟩); clear hK K))
  try refine wpStill_nil ?_
  have Q1 : Hid (Ps g w _ { heap := x0.heap, tape := x0.tape, drawn := x0.drawn + 1, os := x0.os, output := x0.output }) := P0.out.drewN 1
  clear P0 Y0
  generalize ({ heap := x0.heap, tape := x0.tape, drawn := x0.drawn + 1, os := x0.os, output := x0.output } : World) = z1 at *
  obtain ⟨t1, ht1⟩ := Q1.out.at_.2
  refine wpList_store_one rfl 24 (.tmp 116) (.tmp 114) rfl g 1 rfl .u64 _ rfl t1 _ ht1 size24 (by simp only [List.size_toArray, ucs_len]; have := Q1.out.at_.1; omega) ?_
  intro x1 hh hg hz
  rw [V1.out, ucs_set] at hh
  have P1 := Lib.hid (Q1.out.set hg 1 r1 hh)
  clear hh hg hz ht1 Q1 V1
  go_wp2_with fail
  refine wp_region_still_tail 9 (by kernel_rfl) (by kernel_rfl) ?_
  simp only [List.take_succ_cons, List.take_zero, List.drop_succ_cons, List.drop_zero]
  repeat (first | still_step | (refine wpStill_step (fun K hK => ?_); go_simp; (with_reducible refine ⟨_, Y1.out _, hK _ ?_⟩); clear hK K))
  try refine wpStill_nil ?_
  have Q2 : Hid (Ps g w _ { heap := x1.heap, tape := x1.tape, drawn := x1.drawn + 1, os := x1.os, output := x1.output }) := P1.out.drewN 1
  clear P1 Y1
  generalize ({ heap := x1.heap, tape := x1.tape, drawn := x1.drawn + 1, os := x1.os, output := x1.output } : World) = z2 at *
  obtain ⟨t2, ht2⟩ := Q2.out.at_.2
  refine wpList_store_one rfl 24 (.tmp 125) (.tmp 123) rfl g 2 rfl .u64 _ rfl t2 _ ht2 size24 (by simp only [List.size_toArray, ucs_len]; have := Q2.out.at_.1; omega) ?_
  intro x2 hh hg hz
  rw [V2.out, ucs_set] at hh
  have P2 := Lib.hid (Q2.out.set hg 2 r2 hh)
  clear hh hg hz ht2 Q2 V2
  go_wp2_with fail
  refine wp_region_still_tail 9 (by kernel_rfl) (by kernel_rfl) ?_
  simp only [List.take_succ_cons, List.take_zero, List.drop_succ_cons, List.drop_zero]
  repeat (first | still_step | (refine wpStill_step (fun K hK => ?_); go_simp; (with_reducible refine ⟨_, Y2.out _, hK _ ?_⟩); clear hK K))
  try refine wpStill_nil ?_
  have Q3 : Hid (Ps g w _ { heap := x2.heap, tape := x2.tape, drawn := x2.drawn + 1, os := x2.os, output := x2.output }) := P2.out.drewN 1
  clear P2 Y2
  generalize ({ heap := x2.heap, tape := x2.tape, drawn := x2.drawn + 1, os := x2.os, output := x2.output } : World) = z3 at *
  obtain ⟨t3, ht3⟩ := Q3.out.at_.2
  refine wpList_store_one rfl 24 (.tmp 134) (.tmp 132) rfl g 3 rfl .u64 _ rfl t3 _ ht3 size24 (by simp only [List.size_toArray, ucs_len]; have := Q3.out.at_.1; omega) ?_
  intro x3 hh hg hz
  rw [V3.out, ucs_set] at hh
  have P3 := Lib.hid (Q3.out.set hg 3 r3 hh)
  clear hh hg hz ht3 Q3 V3
  go_wp2_with fail
  refine wp_region_still_tail 9 (by kernel_rfl) (by kernel_rfl) ?_
  simp only [List.take_succ_cons, List.take_zero, List.drop_succ_cons, List.drop_zero]
  repeat (first | still_step | (refine wpStill_step (fun K hK => ?_); go_simp; (with_reducible refine ⟨_, Y3.out _, hK _ ?_⟩); clear hK K))
  try refine wpStill_nil ?_
  have Q4 : Hid (Ps g w _ { heap := x3.heap, tape := x3.tape, drawn := x3.drawn + 1, os := x3.os, output := x3.output }) := P3.out.drewN 1
  clear P3 Y3
  generalize ({ heap := x3.heap, tape := x3.tape, drawn := x3.drawn + 1, os := x3.os, output := x3.output } : World) = z4 at *
  obtain ⟨t4, ht4⟩ := Q4.out.at_.2
  refine wpList_store_one rfl 24 (.tmp 143) (.tmp 141) rfl g 4 rfl .u64 _ rfl t4 _ ht4 size24 (by simp only [List.size_toArray, ucs_len]; have := Q4.out.at_.1; omega) ?_
  intro x4 hh hg hz
  rw [V4.out, ucs_set] at hh
  have P4 := Lib.hid (Q4.out.set hg 4 r4 hh)
  clear hh hg hz ht4 Q4 V4
  go_wp2_with fail
  have HF : Hid (Ps g w [m0, r1, r2, r3, r4] x4) := by
    have h := P4.out
    have hl := h.at_.1
    simp only [List.length_set] at hl
    rw [five_set _ _ _ _ _ _ hl] at h
    exact h
  clear P4
  have hc := HF.out.at_.cell 0 (by omega)
  have hc' : ({ heap := x4.heap, tape := x4.tape, drawn := x4.drawn + 1, os := x4.os, output := x4.output } : World).cell? ⟨g, 0, none⟩ = some (.int .u64 (m0 : Int)) := HF.out.at_.cell 0 (by omega)
  simp only [List.getD_cons_zero] at hc
  refine wp_region_still_tail 11 (by kernel_rfl) (by kernel_rfl) ?_
  simp only [List.take_succ_cons, List.take_zero, List.drop_succ_cons, List.drop_zero]
  repeat (first | still_step | (refine wpStill_step (fun K hK => ?_); go_simp; (with_reducible refine ⟨_, Y4.out _, hK _ ?_⟩); clear hK K))
  try refine wpStill_nil ?_
  have Q5 : Hid (Ps g w _ { heap := x4.heap, tape := x4.tape, drawn := x4.drawn + 1, os := x4.os, output := x4.output }) := HF.out.drewN 1
  clear HF Y4 hc hc'
  generalize ({ heap := x4.heap, tape := x4.tape, drawn := x4.drawn + 1, os := x4.os, output := x4.output } : World) = z5 at *
  obtain ⟨t5, ht5⟩ := Q5.out.at_.2
  refine wpList_store_one rfl 24 (.tmp 154) (.tmp 152) rfl g 0 rfl .u64 _ rfl t5 _ ht5 size24 (by simp [ucs_len]) ?_
  intro x5 hh hg hz
  rw [V5.out, ucs_set] at hh
  have P5 := Lib.hid (Q5.out.set hg 0 r0 hh)
  clear hh hg hz ht5 Q5 V5
  go_wp2_with fail
  refine (HR.out _ P5.out.at_).mono ?_
  rintro e x6 ⟨rfl, ha, hk⟩
  have P6 : Hid (Ps g w R x6) := ⟨ha, P5.out.keeps.trans hk⟩
  clear ha hk P5 HR
  go_wp2_with fail
  refine bodyPost_end (results_none rfl _ _ _) rfl ?_
  exact ⟨rfl, P6.out.at_, P6.out.keeps⟩
end Go.Proofs.Ytgdimnbdnepbgaa
/- The field's mul, in numbers. No statement is proved here. -/
namespace Go.Proofs.Ytgdimnbdnepbgaa
open Go.RowKit
set_option linter.unusedVariables false
set_option linter.unusedSimpArgs false
set_option maxRecDepth 40000

theorem fold19 (b : Nat) (h : b < 4503599627370496) : IntKind.u64.wrap (19 * (b : Int)) = ((19 * b : Nat) : Int) := by
  rw [IntKind.wrap_u64]; omega
theorem word_plus (t y : Nat) (hy : y < 4611686018427387904) : IntKind.u64.wrap (bits .and .u64 ((t % 18446744073709551616 : Nat) : Int) 2251799813685247 + (y : Int)) = ((t % 2251799813685248 + y : Nat) : Int) := by
  rw [and_mask _ (mod64 _), IntKind.wrap_u64]
  have : t % 18446744073709551616 % 2251799813685248 = t % 2251799813685248 := Nat.mod_mod_of_dvd t ⟨8192, by decide⟩
  rw [this]
  omega
theorem prod_lt {a b : Nat} (A B : Nat) (ha : a < A) (hb : b < B) : a * b ≤ A * B := Nat.mul_le_mul (Nat.le_of_lt ha) (Nat.le_of_lt hb)
/-- The five sums of products. -/
def t0 (a0 a1 a2 a3 a4 b0 b1 b2 b3 b4 : Nat) : Nat := a0 * b0 + a1 * (19 * b4) + a2 * (19 * b3) + a3 * (19 * b2) + a4 * (19 * b1)
def t1 (a0 a1 a2 a3 a4 b0 b1 b2 b3 b4 : Nat) : Nat := a0 * b1 + a1 * b0 + a2 * (19 * b4) + a3 * (19 * b3) + a4 * (19 * b2)
def t2 (a0 a1 a2 a3 a4 b0 b1 b2 b3 b4 : Nat) : Nat := a0 * b2 + a1 * b1 + a2 * b0 + a3 * (19 * b4) + a4 * (19 * b3)
def t3 (a0 a1 a2 a3 a4 b0 b1 b2 b3 b4 : Nat) : Nat := a0 * b3 + a1 * b2 + a2 * b1 + a3 * b0 + a4 * (19 * b4)
def t4 (a0 a1 a2 a3 a4 b0 b1 b2 b3 b4 : Nat) : Nat := a0 * b4 + a1 * b3 + a2 * b2 + a3 * b1 + a4 * b0
theorem sum5_lt (a0 a1 a2 a3 a4 b0 b1 b2 b3 b4 : Nat) (ha0 : a0 < 4503599627370496) (ha1 : a1 < 4503599627370496) (ha2 : a2 < 4503599627370496) (ha3 : a3 < 4503599627370496) (ha4 : a4 < 4503599627370496)
    (hb0 : b0 < 85568392920039424) (hb1 : b1 < 85568392920039424) (hb2 : b2 < 85568392920039424) (hb3 : b3 < 85568392920039424) (hb4 : b4 < 85568392920039424) :
    a0 * b0 + a1 * b1 + a2 * b2 + a3 * b3 + a4 * b4 < 1926828912346908690274988872171521 := by
  have p0 := prod_lt _ _ ha0 hb0
  have p1 := prod_lt _ _ ha1 hb1
  have p2 := prod_lt _ _ ha2 hb2
  have p3 := prod_lt _ _ ha3 hb3
  have p4 := prod_lt _ _ ha4 hb4
  omega
theorem sum5_lt' (a0 a1 a2 a3 a4 b0 b1 b2 b3 b4 : Nat) (ha0 : a0 < 4503599627370496) (ha1 : a1 < 4503599627370496) (ha2 : a2 < 4503599627370496) (ha3 : a3 < 4503599627370496) (ha4 : a4 < 4503599627370496)
    (hb0 : b0 < 4503599627370496) (hb1 : b1 < 4503599627370496) (hb2 : b2 < 4503599627370496) (hb3 : b3 < 4503599627370496) (hb4 : b4 < 4503599627370496) :
    a0 * b0 + a1 * b1 + a2 * b2 + a3 * b3 + a4 * b4 ≤ 101412048018258352119736256430080 := by
  have p0 := prod_lt _ _ ha0 hb0
  have p1 := prod_lt _ _ ha1 hb1
  have p2 := prod_lt _ _ ha2 hb2
  have p3 := prod_lt _ _ ha3 hb3
  have p4 := prod_lt _ _ ha4 hb4
  omega
/-- The words before the wrap. -/
def mulW : List Nat → List Nat → List Nat
  | [a0, a1, a2, a3, a4], [b0, b1, b2, b3, b4] =>
    [t0 a0 a1 a2 a3 a4 b0 b1 b2 b3 b4 % 2251799813685248 + 19 * (t4 a0 a1 a2 a3 a4 b0 b1 b2 b3 b4 / 2251799813685248),
      t1 a0 a1 a2 a3 a4 b0 b1 b2 b3 b4 % 2251799813685248 + t0 a0 a1 a2 a3 a4 b0 b1 b2 b3 b4 / 2251799813685248,
      t2 a0 a1 a2 a3 a4 b0 b1 b2 b3 b4 % 2251799813685248 + t1 a0 a1 a2 a3 a4 b0 b1 b2 b3 b4 / 2251799813685248,
      t3 a0 a1 a2 a3 a4 b0 b1 b2 b3 b4 % 2251799813685248 + t2 a0 a1 a2 a3 a4 b0 b1 b2 b3 b4 / 2251799813685248,
      t4 a0 a1 a2 a3 a4 b0 b1 b2 b3 b4 % 2251799813685248 + t3 a0 a1 a2 a3 a4 b0 b1 b2 b3 b4 / 2251799813685248]
  | _, _ => []
def mulL (a b : List Nat) : List Nat := wrapL (mulW a b)

theorem bnd5 {n : Nat} {o : List Nat} (h : Bnd n o) : ∃ a b c d e, o = [a, b, c, d, e] ∧ a < n ∧ b < n ∧ c < n ∧ d < n ∧ e < n := by
  obtain ⟨hl, hb⟩ := h
  match o, hl with
  | [a, b, c, d, e], _ => exact ⟨a, b, c, d, e, rfl, hb 0 (by omega), hb 1 (by omega), hb 2 (by omega), hb 3 (by omega), hb 4 (by omega)⟩
theorem bnd5' {n a b c d e : Nat} (h : a < n ∧ b < n ∧ c < n ∧ d < n ∧ e < n) : Bnd n [a, b, c, d, e] := by
  refine ⟨rfl, fun i hi => ?_⟩
  match i, hi with
  | 0, _ => exact h.1
  | 1, _ => exact h.2.1
  | 2, _ => exact h.2.2.1
  | 3, _ => exact h.2.2.2.1
  | 4, _ => exact h.2.2.2.2
theorem mulW_bnd (a b : List Nat) (ha : Bnd 4503599627370496 a) (hb : Bnd 4503599627370496 b) : Bnd 9223372036854775808 (mulW a b) := by
  obtain ⟨a0, a1, a2, a3, a4, rfl, ha0, ha1, ha2, ha3, ha4⟩ := bnd5 ha
  obtain ⟨b0, b1, b2, b3, b4, rfl, hb0, hb1, hb2, hb3, hb4⟩ := bnd5 hb
  have l0 := sum5_lt a0 a1 a2 a3 a4 b0 (19 * b4) (19 * b3) (19 * b2) (19 * b1) ha0 ha1 ha2 ha3 ha4 (by omega) (by omega) (by omega) (by omega) (by omega)
  have l1 := sum5_lt a0 a1 a2 a3 a4 b1 b0 (19 * b4) (19 * b3) (19 * b2) ha0 ha1 ha2 ha3 ha4 (by omega) (by omega) (by omega) (by omega) (by omega)
  have l2 := sum5_lt a0 a1 a2 a3 a4 b2 b1 b0 (19 * b4) (19 * b3) ha0 ha1 ha2 ha3 ha4 (by omega) (by omega) (by omega) (by omega) (by omega)
  have l3 := sum5_lt a0 a1 a2 a3 a4 b3 b2 b1 b0 (19 * b4) ha0 ha1 ha2 ha3 ha4 (by omega) (by omega) (by omega) (by omega) (by omega)
  have l4 := sum5_lt' a0 a1 a2 a3 a4 b4 b3 b2 b1 b0 ha0 ha1 ha2 ha3 ha4 hb4 hb3 hb2 hb1 hb0
  refine bnd5' ?_
  show t0 a0 a1 a2 a3 a4 b0 b1 b2 b3 b4 % _ + 19 * (t4 a0 a1 a2 a3 a4 b0 b1 b2 b3 b4 / _) < _ ∧ t1 a0 a1 a2 a3 a4 b0 b1 b2 b3 b4 % _ + t0 a0 a1 a2 a3 a4 b0 b1 b2 b3 b4 / _ < _ ∧ _
  change t0 a0 a1 a2 a3 a4 b0 b1 b2 b3 b4 < _ at l0
  change t1 a0 a1 a2 a3 a4 b0 b1 b2 b3 b4 < _ at l1
  change t2 a0 a1 a2 a3 a4 b0 b1 b2 b3 b4 < _ at l2
  change t3 a0 a1 a2 a3 a4 b0 b1 b2 b3 b4 < _ at l3
  change t4 a0 a1 a2 a3 a4 b0 b1 b2 b3 b4 ≤ _ at l4
  generalize t0 a0 a1 a2 a3 a4 b0 b1 b2 b3 b4 = s0 at *
  generalize t1 a0 a1 a2 a3 a4 b0 b1 b2 b3 b4 = s1 at *
  generalize t2 a0 a1 a2 a3 a4 b0 b1 b2 b3 b4 = s2 at *
  generalize t3 a0 a1 a2 a3 a4 b0 b1 b2 b3 b4 = s3 at *
  generalize t4 a0 a1 a2 a3 a4 b0 b1 b2 b3 b4 = s4 at *
  omega
theorem prod_poly (a0 a1 a2 a3 a4 b0 b1 b2 b3 b4 B : Nat) :
    (a0 + a1 * B + a2 * (B * B) + a3 * (B * B * B) + a4 * (B * B * B * B)) * (b0 + b1 * B + b2 * (B * B) + b3 * (B * B * B) + b4 * (B * B * B * B)) +
        19 * (a1 * b4 + a2 * b3 + a3 * b2 + a4 * b1 + (a2 * b4 + a3 * b3 + a4 * b2) * B + (a3 * b4 + a4 * b3) * (B * B) + a4 * b4 * (B * B * B)) =
      t0 a0 a1 a2 a3 a4 b0 b1 b2 b3 b4 + t1 a0 a1 a2 a3 a4 b0 b1 b2 b3 b4 * B + t2 a0 a1 a2 a3 a4 b0 b1 b2 b3 b4 * (B * B) + t3 a0 a1 a2 a3 a4 b0 b1 b2 b3 b4 * (B * B * B) + t4 a0 a1 a2 a3 a4 b0 b1 b2 b3 b4 * (B * B * B * B) +
        (B * B * B * B * B) * (a1 * b4 + a2 * b3 + a3 * b2 + a4 * b1 + (a2 * b4 + a3 * b3 + a4 * b2) * B + (a3 * b4 + a4 * b3) * (B * B) + a4 * b4 * (B * B * B)) := by
  unfold t0 t1 t2 t3 t4
  grind
theorem mulW_val (a b : List Nat) (ha : a.length = 5) (hb : b.length = 5) : val5 (mulW a b) % 57896044618658097711785492504343953926634992332820282019728792003956564819949 = val5 a * val5 b % 57896044618658097711785492504343953926634992332820282019728792003956564819949 := by
  match a, b, ha, hb with
  | [a0, a1, a2, a3, a4], [b0, b1, b2, b3, b4], _, _ =>
    have h := prod_poly a0 a1 a2 a3 a4 b0 b1 b2 b3 b4 2251799813685248
    simp only [val5, mulW]
    simp only [show (2251799813685248 * 2251799813685248 : Nat) = 5070602400912917605986812821504 from rfl, show (5070602400912917605986812821504 * 2251799813685248 : Nat) = 11417981541647679048466287755595961091061972992 from rfl,
      show (11417981541647679048466287755595961091061972992 * 2251799813685248 : Nat) = 25711008708143844408671393477458601640355247900524685364822016 from rfl,
      show (25711008708143844408671393477458601640355247900524685364822016 * 2251799813685248 : Nat) = 57896044618658097711785492504343953926634992332820282019728792003956564819968 from rfl] at h
    generalize t0 a0 a1 a2 a3 a4 b0 b1 b2 b3 b4 = s0 at *
    generalize t1 a0 a1 a2 a3 a4 b0 b1 b2 b3 b4 = s1 at *
    generalize t2 a0 a1 a2 a3 a4 b0 b1 b2 b3 b4 = s2 at *
    generalize t3 a0 a1 a2 a3 a4 b0 b1 b2 b3 b4 = s3 at *
    generalize t4 a0 a1 a2 a3 a4 b0 b1 b2 b3 b4 = s4 at *
    generalize (a0 + a1 * 2251799813685248 + a2 * 5070602400912917605986812821504 + a3 * 11417981541647679048466287755595961091061972992 + a4 * 25711008708143844408671393477458601640355247900524685364822016) * (b0 + b1 * 2251799813685248 + b2 * 5070602400912917605986812821504 + b3 * 11417981541647679048466287755595961091061972992 + b4 * 25711008708143844408671393477458601640355247900524685364822016) = M at *
    generalize a1 * b4 + a2 * b3 + a3 * b2 + a4 * b1 + (a2 * b4 + a3 * b3 + a4 * b2) * 2251799813685248 + (a3 * b4 + a4 * b3) * 5070602400912917605986812821504 + a4 * b4 * 11417981541647679048466287755595961091061972992 = T at *
    have e : s0 % 2251799813685248 + 19 * (s4 / 2251799813685248) + (s1 % 2251799813685248 + s0 / 2251799813685248) * 2251799813685248 + (s2 % 2251799813685248 + s1 / 2251799813685248) * 5070602400912917605986812821504 +
        (s3 % 2251799813685248 + s2 / 2251799813685248) * 11417981541647679048466287755595961091061972992 + (s4 % 2251799813685248 + s3 / 2251799813685248) * 25711008708143844408671393477458601640355247900524685364822016 +
        57896044618658097711785492504343953926634992332820282019728792003956564819949 * (s4 / 2251799813685248 + T) = M + 57896044618658097711785492504343953926634992332820282019728792003956564819949 * 0 + 57896044618658097711785492504343953926634992332820282019728792003956564819949 * (2 * T) - 57896044618658097711785492504343953926634992332820282019728792003956564819949 * (2 * T) := by
      have d0 := Nat.div_add_mod s0 2251799813685248
      have d1 := Nat.div_add_mod s1 2251799813685248
      have d2 := Nat.div_add_mod s2 2251799813685248
      have d3 := Nat.div_add_mod s3 2251799813685248
      have d4 := Nat.div_add_mod s4 2251799813685248
      generalize s0 / 2251799813685248 = u0 at *
      generalize s0 % 2251799813685248 = v0 at *
      generalize s1 / 2251799813685248 = u1 at *
      generalize s1 % 2251799813685248 = v1 at *
      generalize s2 / 2251799813685248 = u2 at *
      generalize s2 % 2251799813685248 = v2 at *
      generalize s3 / 2251799813685248 = u3 at *
      generalize s3 % 2251799813685248 = v3 at *
      generalize s4 / 2251799813685248 = u4 at *
      generalize s4 % 2251799813685248 = v4 at *
      omega
    rw [Nat.mul_zero, Nat.add_zero, Nat.add_sub_cancel] at e
    rw [← e, Nat.add_mul_mod_self_left]
theorem mul_any (g ga gb : Nat) (o a b : List Nat) (w : World) (hw : WAt w g o) (hwa : WAt w ga a) (hwb : WAt w gb b) (ha : Bnd 4503599627370496 a) (hb : Bnd 4503599627370496 b) :
    Calls Try.prog 74 #[.pointer (some ⟨g, 0, none⟩), .pointer (some ⟨ga, 0, none⟩), .pointer (some ⟨gb, 0, none⟩)] w (Sets g (mulL a b) w) := by
  have hbnd := mulW_bnd a b ha hb
  have hR : ∀ w', WAt w' g (mulW a b) → Calls Try.prog 98 #[.pointer (some ⟨g, 0, none⟩)] w' (Sets g (mulL a b) w') := fun w' h => wrap_any g (mulW a b) w' h hbnd
  generalize mulL a b = R at *
  obtain ⟨a0, a1, a2, a3, a4, rfl, ha0, ha1, ha2, ha3, ha4⟩ := bnd5 ha
  obtain ⟨b0, b1, b2, b3, b4, rfl, hb0, hb1, hb2, hb3, hb4⟩ := bnd5 hb
  have l0 := sum5_lt a0 a1 a2 a3 a4 b0 (19 * b4) (19 * b3) (19 * b2) (19 * b1) ha0 ha1 ha2 ha3 ha4 (by omega) (by omega) (by omega) (by omega) (by omega)
  have l1 := sum5_lt a0 a1 a2 a3 a4 b1 b0 (19 * b4) (19 * b3) (19 * b2) ha0 ha1 ha2 ha3 ha4 (by omega) (by omega) (by omega) (by omega) (by omega)
  have l2 := sum5_lt a0 a1 a2 a3 a4 b2 b1 b0 (19 * b4) (19 * b3) ha0 ha1 ha2 ha3 ha4 (by omega) (by omega) (by omega) (by omega) (by omega)
  have l3 := sum5_lt a0 a1 a2 a3 a4 b3 b2 b1 b0 (19 * b4) ha0 ha1 ha2 ha3 ha4 (by omega) (by omega) (by omega) (by omega) (by omega)
  have l4 := sum5_lt' a0 a1 a2 a3 a4 b4 b3 b2 b1 b0 ha0 ha1 ha2 ha3 ha4 hb4 hb3 hb2 hb1 hb0
  have S : ∀ (x0 x1 x2 x3 x4 : Nat), x0 < 85568392920039424 → x1 < 85568392920039424 → x2 < 85568392920039424 → x3 < 85568392920039424 → x4 < 85568392920039424 → ∀ w', WAt w' ga [a0, a1, a2, a3, a4] → Calls Try.prog 96 #[.pointer (some ⟨ga, 0, none⟩), .int .u64 x0, .int .u64 x1, .int .u64 x2, .int .u64 x3, .int .u64 x4] w' fun e w'' => e = .returned (.tuple #[.int .u64 ((a0 * x0 + a1 * x1 + a2 * x2 + a3 * x3 + a4 * x4) / 18446744073709551616 : Nat), .int .u64 ((a0 * x0 + a1 * x1 + a2 * x2 + a3 * x3 + a4 * x4) % 18446744073709551616 : Nat)]) ∧ w'' = w' :=
    fun x0 x1 x2 x3 x4 h0 h1 h2 h3 h4 w' h => sum_any ga a0 a1 a2 a3 a4 x0 x1 x2 x3 x4 w' (h.cell 0 (by omega)) (h.cell 1 (by omega)) (h.cell 2 (by omega)) (h.cell 3 (by omega)) (h.cell 4 (by omega))
      (by omega) (by omega) (by omega) (by omega) (by omega) (by omega) (by omega) (by omega) (by omega) (by omega) (Nat.lt_of_lt_of_le (sum5_lt a0 a1 a2 a3 a4 x0 x1 x2 x3 x4 ha0 ha1 ha2 ha3 ha4 h0 h1 h2 h3 h4) (by decide))
  have Y : ∀ (t : Nat), t < 1926828912346908690274988872171521 → ∀ w, Calls Try.prog 97 #[.int .u64 (t / 18446744073709551616 : Nat), .int .u64 (t % 18446744073709551616 : Nat)] w fun e w' => e = .returned (.int .u64 (t / 2251799813685248 : Nat)) ∧ w' = w := by
    intro t ht w
    have h := beyond_any (t / 18446744073709551616) (t % 18446744073709551616) w (by omega) (mod64 _)
    rw [show t / 18446744073709551616 * 18446744073709551616 + t % 18446744073709551616 = t from by omega] at h
    exact h
  refine mul_core g ga gb o [a0, a1, a2, a3, a4] b0 b1 b2 b3 b4 (19 * b1) (19 * b2) (19 * b3) (19 * b4) _ _ _ _ _ _ _ _ _ _ _ _ _ _ _ (t0 a0 a1 a2 a3 a4 b0 b1 b2 b3 b4 % 2251799813685248) (t0 a0 a1 a2 a3 a4 b0 b1 b2 b3 b4 % 2251799813685248 + 19 * (t4 a0 a1 a2 a3 a4 b0 b1 b2 b3 b4 / 2251799813685248)) _ _ _ _ R w hw hwa hwb (fold19 _ hb1) (fold19 _ hb2) (fold19 _ hb3) (fold19 _ hb4)
    (S b0 (19 * b4) (19 * b3) (19 * b2) (19 * b1) (by omega) (by omega) (by omega) (by omega) (by omega)) (S b1 b0 (19 * b4) (19 * b3) (19 * b2) (by omega) (by omega) (by omega) (by omega) (by omega)) (S b2 b1 b0 (19 * b4) (19 * b3) (by omega) (by omega) (by omega) (by omega) (by omega))
    (S b3 b2 b1 b0 (19 * b4) (by omega) (by omega) (by omega) (by omega) (by omega)) (S b4 b3 b2 b1 b0 (by omega) (by omega) (by omega) (by omega) (by omega))
    (Y _ l0) (Y _ l1) (Y _ l2) (Y _ l3) (Y _ (by omega)) ?_ (word_plus _ _ ?_) (word_plus _ _ ?_) (word_plus _ _ ?_) (word_plus _ _ ?_) ?_ hR
  · exact (and_mask _ (mod64 _)).trans (by rw [Nat.mod_mod_of_dvd _ ⟨8192, by decide⟩]; rfl)
  · change t0 a0 a1 a2 a3 a4 b0 b1 b2 b3 b4 < _ at l0
    show t0 a0 a1 a2 a3 a4 b0 b1 b2 b3 b4 / _ < _
    omega
  · change t1 a0 a1 a2 a3 a4 b0 b1 b2 b3 b4 < _ at l1
    show t1 a0 a1 a2 a3 a4 b0 b1 b2 b3 b4 / _ < _
    omega
  · change t2 a0 a1 a2 a3 a4 b0 b1 b2 b3 b4 < _ at l2
    show t2 a0 a1 a2 a3 a4 b0 b1 b2 b3 b4 / _ < _
    omega
  · change t3 a0 a1 a2 a3 a4 b0 b1 b2 b3 b4 < _ at l3
    show t3 a0 a1 a2 a3 a4 b0 b1 b2 b3 b4 / _ < _
    omega
  · change t4 a0 a1 a2 a3 a4 b0 b1 b2 b3 b4 ≤ _ at l4
    show IntKind.u64.wrap (((t0 a0 a1 a2 a3 a4 b0 b1 b2 b3 b4 % 2251799813685248 : Nat) : Int) + IntKind.u64.wrap (19 * ((t4 a0 a1 a2 a3 a4 b0 b1 b2 b3 b4 / 2251799813685248 : Nat) : Int))) = ((t0 a0 a1 a2 a3 a4 b0 b1 b2 b3 b4 % 2251799813685248 + 19 * (t4 a0 a1 a2 a3 a4 b0 b1 b2 b3 b4 / 2251799813685248) : Nat) : Int)
    generalize t0 a0 a1 a2 a3 a4 b0 b1 b2 b3 b4 = s0 at *
    generalize t4 a0 a1 a2 a3 a4 b0 b1 b2 b3 b4 = s4 at *
    rw [IntKind.wrap_u64, IntKind.wrap_u64]
    omega
theorem mul_val (a b : List Nat) (ha : Bnd 4503599627370496 a) (hb : Bnd 4503599627370496 b) :
    val5 (mulL a b) % 57896044618658097711785492504343953926634992332820282019728792003956564819949 = val5 a * val5 b % 57896044618658097711785492504343953926634992332820282019728792003956564819949 ∧ Bnd 4503599627370496 (mulL a b) := by
  obtain ⟨q, hq, h2, h3⟩ := wrap_val (mulW a b) (mulW_bnd a b ha hb)
  refine ⟨?_, h2.1, fun i hi => Nat.lt_of_lt_of_le (h2.2 i hi) (by decide)⟩
  rw [← mulW_val a b ha.1 hb.1, ← hq, Nat.add_mul_mod_self_right]
  rfl
end Go.Proofs.Ytgdimnbdnepbgaa
/- The field's least. No statement is proved here. -/
namespace Go.Proofs.Ytgdimnbdnepbgaa
open Go.RowKit
set_option linter.unusedVariables false
set_option linter.unusedSimpArgs false
set_option maxRecDepth 40000

/-- What the words and 19 have beyond 255 bits, word by word. -/
def ov (o : List Nat) : Nat → Nat
  | 0 => (o.getD 0 0 + 19) / 2251799813685248
  | n + 1 => (o.getD (n + 1) 0 + ov o n) / 2251799813685248
theorem ov_le (o : List Nat) (ho : Bnd 2251799813763072 o) : ∀ n, n ≤ 4 → ov o n ≤ 1
  | 0, _ => by
    have := ho.2 0 (by omega)
    unfold ov
    omega
  | n + 1, h => by
    have h1 := ho.2 (n + 1) (by omega)
    have h2 := ov_le o ho n (by omega)
    unfold ov
    omega
def leastW (o : List Nat) : List Nat := o.set 0 (o.getD 0 0 + 19 * ov o 4)
def leastL (o : List Nat) : List Nat := (passk (leastW (wrapL o)) 5).1

set_option maxHeartbeats 800000 in
theorem least_core (g : Nat) (o o1 R : List Nat) (w : World) (HW : Hid (Calls Try.prog 98 #[.pointer (some ⟨g, 0, none⟩)] w (Sets g o1 w))) (HB : Hid (Bnd 2251799813763072 o1))
    (HR : Hid (∀ w', WAt w' g (leastW o1) → Calls Try.prog 106 #[.pointer (some ⟨g, 0, none⟩)] w' fun e w'' => (∃ c : Nat, e = .returned (.int .u64 c)) ∧ WAt w'' g R ∧ Keeps (· = g) w' w'')) :
    Calls Try.prog 93 #[.pointer (some ⟨g, 0, none⟩)] w (Sets g R w) := by
  go_enter Try.func93, Try.ntmps93
  go_wp2_with fail
  refine (HW.out).mono ?_
  rintro e w1 ⟨rfl, hw, hk⟩
  have HS : Hid (Ps g w o1 w1) := ⟨hw, hk⟩
  clear hw hk HW
  have hc := HS.out.at_.cell 0 (by omega)
  have V0 : Hid (IntKind.u64.wrap ((o1.getD 0 0 : Nat) + 19) / 2251799813685248 = ((ov o1 0 : Nat) : Int)) := by
    have := HB.out.2 0 (by omega)
    unfold ov
    rw [IntKind.wrap_u64]
    exact Lib.hid (by omega)
  generalize hz : o1.getD 0 0 = x0 at hc V0
  have HX0 := Lib.hid hz
  clear hz
  go_wp2_with fail
  rw [V0.out]
  clear V0 hc
  go_loopw [2, 17] (fun c i wr => ∃ n : Nat, n ≤ 4 ∧ i = .int .i64 n ∧ c = .int .u64 (ov o1 n) ∧ wr = w1) (fun _ i _ => 4 - (intOf i).toNat)
  case atStart => exact ⟨0, by omega, rfl, rfl, rfl⟩
  case round =>
    obtain ⟨n, hn, rfl, rfl, hwr⟩ := hrel
    subst hwr
    by_cases hlt : n < 4
    · have hni : (n : Int) < 4 := by omega
      have hc := HS.out.at_.cell (1 + n) (by omega)
      have hV : IntKind.u64.wrap (((o1.getD (1 + n) 0 : Nat) : Int) + ((ov o1 n : Nat) : Int)) / 2251799813685248 = ((ov o1 (n + 1) : Nat) : Int) := by
        have h1 := HB.out.2 (n + 1) (by omega)
        have h2 := ov_le o1 HB.out n hn
        rw [Nat.add_comm 1 n]
        show _ = (((o1.getD (n + 1) 0 + ov o1 n) / 2251799813685248 : Nat) : Int)
        rw [IntKind.wrap_u64]
        omega
      have V := Lib.hid hV
      clear hV
      have HY : Hid (∃ z, z = ov o1 (n + 1)) := ⟨_, rfl⟩
      obtain ⟨y, hy⟩ := HY.out
      rw [← hy] at V
      have HYE := Lib.hid hy
      clear hy HY
      generalize o1.getD (1 + n) 0 = x at *
      generalize ov o1 n = c at *
      go_wp2_with fail
      refine ⟨⟨n + 1, by omega, by go_num, ?_, trivial⟩, by simp [intOf]; omega⟩
      rw [V.out, HYE.out]
    · obtain rfl : n = 4 := by omega
      have HV : Hid (IntKind.u64.wrap ((x0 : Int) + IntKind.u64.wrap (19 * ((ov o1 4 : Nat) : Int))) = ((x0 + 19 * ov o1 4 : Nat) : Int)) := by
        have h1 := HB.out.2 0 (by omega)
        rw [HX0.out] at h1
        have h2 := ov_le o1 HB.out 4 (by omega)
        rw [IntKind.wrap_u64, IntKind.wrap_u64]
        exact Lib.hid (by omega)
      have HE : Hid (leastW o1 = o1.set 0 (x0 + 19 * ov o1 4)) := by
        unfold leastW
        rw [HX0.out]
        exact Lib.hid rfl
      generalize leastW o1 = o2 at *
      generalize ov o1 4 = c at *
      have hc := HS.out.at_.cell 0 (by omega)
      rw [HX0.out] at hc
      have hc' : ({ heap := wr.heap, tape := wr.tape, drawn := wr.drawn + 1, os := wr.os, output := wr.output } : World).cell? ⟨g, 0, none⟩ = some (.int .u64 (x0 : Int)) := hc
      go_wp2_with fail
      go_still_tail 9, (by kernel_rfl)
      clear hc hc'
      have HD : Hid (Ps g w o1 { heap := wr.heap, tape := wr.tape, drawn := wr.drawn + 1, os := wr.os, output := wr.output }) := HS.out.drewN 1
      clear HS
      generalize ({ heap := wr.heap, tape := wr.tape, drawn := wr.drawn + 1, os := wr.os, output := wr.output } : World) = wd at *
      obtain ⟨t, ht⟩ := HD.out.at_.2
      refine wpList_store_one rfl 24 (.tmp 34) (.tmp 32) rfl g 0 rfl .u64 _ rfl t _ ht size24 (by simp only [List.size_toArray, ucs_len]; have := HD.out.at_.1; omega) ?_
      intro w3 hh hg hz
      rw [HV.out, ucs_set] at hh
      have HP0 := Lib.hid (HD.out.set hg 0 _ hh)
      rw [← HE.out] at HP0
      clear hh hg hz ht HD HV HE
      go_wp2_with fail
      refine (HR.out _ HP0.out.at_).mono ?_
      rintro e w4 ⟨⟨c', rfl⟩, ha, hk⟩
      have HF : Hid (Ps g w R w4) := ⟨ha, HP0.out.keeps.trans hk⟩
      clear ha hk HP0 HR
      go_wp2_with fail
      refine bodyPost_end (results_none rfl _ _ _) rfl ?_
      exact ⟨rfl, HF.out.at_, HF.out.keeps⟩

theorem leastW_bnd (o : List Nat) (ho : Bnd 2251799813763072 o) : Bnd 9223372036854775808 (leastW o) := by
  have h1 := ov_le o ho 4 (by omega)
  unfold leastW
  generalize ov o 4 = c at *
  obtain ⟨a0, a1, a2, a3, a4, rfl, h⟩ := bnd5 ho
  simp only [List.set, List.getD_cons_zero]
  exact bnd5' (by omega)
theorem least_any (g : Nat) (o : List Nat) (w : World) (hw : WAt w g o) (ho : Bnd 9223372036854775808 o) :
    Calls Try.prog 93 #[.pointer (some ⟨g, 0, none⟩)] w (Sets g (leastL o) w) := by
  obtain ⟨q, _, hb, _⟩ := wrap_val o ho
  refine least_core g o (wrapL o) (leastL o) w (wrap_any g o w hw ho) hb ?_
  exact Lib.hid fun w' h => (pass_any g _ w' h (leastW_bnd _ hb)).mono fun e w'' h => ⟨⟨_, h.1⟩, h.2⟩
theorem ov_val (o : List Nat) (ho : o.length = 5) : ov o 4 = (val5 o + 19) / 57896044618658097711785492504343953926634992332820282019728792003956564819968 := by
  match o, ho with
  | [a0, a1, a2, a3, a4], _ =>
    simp only [ov, List.getD_cons_zero, List.getD_cons_succ, val5]
    omega
theorem val_lt (o : List Nat) (hb : Bnd 2251799813685248 o) : val5 o < 57896044618658097711785492504343953926634992332820282019728792003956564819968 := by
  obtain ⟨x0, x1, x2, x3, x4, rfl, h⟩ := bnd5 hb
  simp only [val5]
  omega
theorem least_val (o : List Nat) (ho : Bnd 9223372036854775808 o) :
    val5 (leastL o) = val5 o % 57896044618658097711785492504343953926634992332820282019728792003956564819949 ∧ Bnd 2251799813685248 (leastL o) := by
  obtain ⟨q, hq, hb, hlt⟩ := wrap_val o ho
  have h1 := ov_val (wrapL o) hb.1
  have h2 : val5 (leastW (wrapL o)) = val5 (wrapL o) + 19 * ov (wrapL o) 4 := set0_val _ _ hb.1
  have h3 := pass_val (leastW (wrapL o)) (leastW_bnd _ hb).1
  have h4 := pass_bnd (leastW (wrapL o)) (leastW_bnd _ hb).1
  have h5 := val_lt _ h4
  refine ⟨?_, h4⟩
  rw [← hq, Nat.add_mul_mod_self_right]
  show val5 (passk (leastW (wrapL o)) 5).1 = _
  rw [h2] at h3
  generalize val5 (passk (leastW (wrapL o)) 5).1 = r at *
  generalize (passk (leastW (wrapL o)) 5).2 = c at *
  generalize val5 (wrapL o) = v at *
  generalize ov (wrapL o) 4 = u at *
  clear hq hb h2
  have hu : u = 0 ∨ u = 1 := by omega
  have hc : c = 0 ∨ c = 1 := by omega
  have hv : v / 57896044618658097711785492504343953926634992332820282019728792003956564819949 = u := by omega
  have hm := Nat.div_add_mod v 57896044618658097711785492504343953926634992332820282019728792003956564819949
  rw [hv] at hm
  generalize v % 57896044618658097711785492504343953926634992332820282019728792003956564819949 = m at *
  rcases hu with rfl | rfl <;> rcases hc with rfl | rfl <;> omega
end Go.Proofs.Ytgdimnbdnepbgaa
/- A number's 32 bytes. No statement is proved here. -/
namespace Go.Proofs.Ytgdimnbdnepbgaa
open Go.RowKit
set_option linter.unusedVariables false
set_option linter.unusedSimpArgs false
set_option maxRecDepth 40000

def bytes8 (n : Nat) : List UInt8 := [UInt8.ofNat n, UInt8.ofNat (n / 256), UInt8.ofNat (n / 65536), UInt8.ofNat (n / 16777216), UInt8.ofNat (n / 4294967296), UInt8.ofNat (n / 1099511627776), UInt8.ofNat (n / 281474976710656), UInt8.ofNat (n / 72057594037927936)]
def encQ (n0 n1 n2 n3 : Nat) : List UInt8 := bytes8 n0 ++ (bytes8 n1 ++ (bytes8 n2 ++ bytes8 n3))
/-- The 32 bytes of a number. -/
def enc (v : Nat) : List UInt8 := encQ (v % 18446744073709551616) (v / 18446744073709551616 % 18446744073709551616) (v / 340282366920938463463374607431768211456 % 18446744073709551616) (v / 6277101735386680763835789423207666416102355444464034512896 % 18446744073709551616)
theorem enc_len (v : Nat) : (enc v).length = 32 := rfl
theorem put_zero (n0 n1 n2 n3 : Nat) : put8 (put8 (put8 (put8 (List.replicate 32 0) 0 n0) 8 n1) 16 n2) 24 n3 = encQ n0 n1 n2 n3 := by kernel_rfl
theorem num8_of (n : Nat) (h : n < 18446744073709551616) :
    num8 (n % 256) (n / 256 % 256) (n / 65536 % 256) (n / 16777216 % 256) (n / 4294967296 % 256) (n / 1099511627776 % 256) (n / 281474976710656 % 256) (n / 72057594037927936 % 256) = n := by
  have e2 : n / 65536 = n / 256 / 256 := by rw [Nat.div_div_eq_div_mul]
  have e3 : n / 16777216 = n / 256 / 256 / 256 := by rw [Nat.div_div_eq_div_mul, Nat.div_div_eq_div_mul]
  have e4 : n / 4294967296 = n / 256 / 256 / 256 / 256 := by rw [Nat.div_div_eq_div_mul, Nat.div_div_eq_div_mul, Nat.div_div_eq_div_mul]
  have e5 : n / 1099511627776 = n / 256 / 256 / 256 / 256 / 256 := by rw [Nat.div_div_eq_div_mul, Nat.div_div_eq_div_mul, Nat.div_div_eq_div_mul, Nat.div_div_eq_div_mul]
  have e6 : n / 281474976710656 = n / 256 / 256 / 256 / 256 / 256 / 256 := by rw [Nat.div_div_eq_div_mul, Nat.div_div_eq_div_mul, Nat.div_div_eq_div_mul, Nat.div_div_eq_div_mul, Nat.div_div_eq_div_mul]
  have e7 : n / 72057594037927936 = n / 256 / 256 / 256 / 256 / 256 / 256 / 256 := by rw [Nat.div_div_eq_div_mul, Nat.div_div_eq_div_mul, Nat.div_div_eq_div_mul, Nat.div_div_eq_div_mul, Nat.div_div_eq_div_mul, Nat.div_div_eq_div_mul]
  rw [e2, e3, e4, e5, e6, e7]
  unfold num8
  have d0 := Nat.div_add_mod n 256
  generalize n % 256 = r0 at *
  generalize n / 256 = x1 at *
  have d1 := Nat.div_add_mod x1 256
  generalize x1 % 256 = r1 at *
  generalize x1 / 256 = x2 at *
  have d2 := Nat.div_add_mod x2 256
  generalize x2 % 256 = r2 at *
  generalize x2 / 256 = x3 at *
  have d3 := Nat.div_add_mod x3 256
  generalize x3 % 256 = r3 at *
  generalize x3 / 256 = x4 at *
  have d4 := Nat.div_add_mod x4 256
  generalize x4 % 256 = r4 at *
  generalize x4 / 256 = x5 at *
  have d5 := Nat.div_add_mod x5 256
  generalize x5 % 256 = r5 at *
  generalize x5 / 256 = x6 at *
  have d6 := Nat.div_add_mod x6 256
  generalize x6 % 256 = r6 at *
  generalize x6 / 256 = x7 at *
  clear e2 e3 e4 e5 e6 e7
  have hx7 : x7 < 256 := by omega
  rw [Nat.mod_eq_of_lt hx7]
  omega
theorem of_byte (n : Nat) : (UInt8.ofNat n).toNat = n % 256 := by rw [UInt8.toNat_ofNat']
theorem num8_bytes (n : Nat) (h : n < 18446744073709551616) : num8 (UInt8.ofNat n).toNat (UInt8.ofNat (n / 256)).toNat (UInt8.ofNat (n / 65536)).toNat (UInt8.ofNat (n / 16777216)).toNat (UInt8.ofNat (n / 4294967296)).toNat (UInt8.ofNat (n / 1099511627776)).toNat (UInt8.ofNat (n / 281474976710656)).toNat (UInt8.ofNat (n / 72057594037927936)).toNat = n := by
  simp only [of_byte]
  exact num8_of n h
theorem q8_0 (n0 n1 n2 n3 : Nat) (h : n0 < 18446744073709551616) : q8 (encQ n0 n1 n2 n3) 0 = n0 := num8_bytes n0 h
theorem q8_8 (n0 n1 n2 n3 : Nat) (h : n1 < 18446744073709551616) : q8 (encQ n0 n1 n2 n3) 8 = n1 := num8_bytes n1 h
theorem q8_16 (n0 n1 n2 n3 : Nat) (h : n2 < 18446744073709551616) : q8 (encQ n0 n1 n2 n3) 16 = n2 := num8_bytes n2 h
theorem q8_24 (n0 n1 n2 n3 : Nat) (h : n3 < 18446744073709551616) : q8 (encQ n0 n1 n2 n3) 24 = n3 := num8_bytes n3 h
theorem nv_enc (v : Nat) (h : v < 115792089237316195423570985008687907853269984665640564039457584007913129639936) : nv (enc v) = v := by
  unfold nv enc
  rw [q8_0 _ _ _ _ (mod64 _), q8_8 _ _ _ _ (mod64 _), q8_16 _ _ _ _ (mod64 _), q8_24 _ _ _ _ (mod64 _)]
  omega
theorem nv_lt (l : List UInt8) : nv l < 115792089237316195423570985008687907853269984665640564039457584007913129639936 := by
  have h0 := q8_lt l 0
  have h1 := q8_lt l 8
  have h2 := q8_lt l 16
  have h3 := q8_lt l 24
  unfold nv
  omega
theorem enc_inj {v x : Nat} (hv : v < 115792089237316195423570985008687907853269984665640564039457584007913129639936) (hx : x < 115792089237316195423570985008687907853269984665640564039457584007913129639936) (h : enc v = enc x) : v = x := by
  rw [← nv_enc v hv, h, nv_enc x hx]
theorem byte_back (b : UInt8) (n : Nat) (h : n % 256 = b.toNat) : UInt8.ofNat n = b := by
  apply UInt8.toNat_inj.1
  rw [of_byte, h]
theorem bytes8_num (b0 b1 b2 b3 b4 b5 b6 b7 : UInt8) : bytes8 (num8 b0.toNat b1.toNat b2.toNat b3.toNat b4.toNat b5.toNat b6.toNat b7.toNat) = [b0, b1, b2, b3, b4, b5, b6, b7] := by
  have h0 := b0.toNat_lt
  have h1 := b1.toNat_lt
  have h2 := b2.toNat_lt
  have h3 := b3.toNat_lt
  have h4 := b4.toNat_lt
  have h5 := b5.toNat_lt
  have h6 := b6.toNat_lt
  have h7 := b7.toNat_lt
  unfold bytes8 num8
  rw [byte_back b0 _ (by omega), byte_back b1 _ (by omega), byte_back b2 _ (by omega), byte_back b3 _ (by omega), byte_back b4 _ (by omega), byte_back b5 _ (by omega), byte_back b6 _ (by omega), byte_back b7 _ (by omega)]
theorem enc_nv (l : List UInt8) (h : l.length = 32) : enc (nv l) = l := by
  have h0 := q8_lt l 0
  have h1 := q8_lt l 8
  have h2 := q8_lt l 16
  have h3 := q8_lt l 24
  have e0 : nv l % 18446744073709551616 = q8 l 0 := by unfold nv; omega
  have e1 : nv l / 18446744073709551616 % 18446744073709551616 = q8 l 8 := by unfold nv; omega
  have e2 : nv l / 340282366920938463463374607431768211456 % 18446744073709551616 = q8 l 16 := by unfold nv; omega
  have e3 : nv l / 6277101735386680763835789423207666416102355444464034512896 % 18446744073709551616 = q8 l 24 := by unfold nv; omega
  unfold enc encQ
  rw [e0, e1, e2, e3]
  match l, h with
  | [b0, b1, b2, b3, b4, b5, b6, b7, b8, b9, b10, b11, b12, b13, b14, b15, b16, b17, b18, b19, b20, b21, b22, b23, b24, b25, b26, b27, b28, b29, b30, b31], _ =>
    show bytes8 (num8 b0.toNat b1.toNat b2.toNat b3.toNat b4.toNat b5.toNat b6.toNat b7.toNat) ++ (bytes8 (num8 b8.toNat b9.toNat b10.toNat b11.toNat b12.toNat b13.toNat b14.toNat b15.toNat) ++ (bytes8 (num8 b16.toNat b17.toNat b18.toNat b19.toNat b20.toNat b21.toNat b22.toNat b23.toNat) ++ bytes8 (num8 b24.toNat b25.toNat b26.toNat b27.toNat b28.toNat b29.toNat b30.toNat b31.toNat))) = _
    rw [bytes8_num, bytes8_num, bytes8_num, bytes8_num]
    rfl
/-- Four words out of five, as number makes them. -/
theorem cross_or (a b D E k : Nat) (hE : E = 2 ^ k) (D' : Nat) (hD : 0 < D) (hDE : D' * E = 18446744073709551616) (ha : a < 2251799813685248) (haE : a / D < E) :
    bits .or .u64 ((a : Int) / (D : Int)) (IntKind.u64.wrap ((b : Int) * (E : Int))) = ((a / D + b % D' * E : Nat) : Int) := by
  have hD' : 0 < D' := Nat.pos_of_ne_zero fun h => by rw [h, Nat.zero_mul] at hDE; omega
  have h2 : b * E % 18446744073709551616 = b % D' * E := by rw [← hDE, Nat.mul_mod_mul_right]
  have h3 : b % D' * E < 18446744073709551616 := by rw [← h2]; exact mod64 _
  have h4 : a / D < 18446744073709551616 := Nat.lt_of_le_of_lt (Nat.div_le_self _ _) (by omega)
  have e1 : IntKind.u64.wrap ((b : Int) * (E : Int)) = ((b % D' * E : Nat) : Int) := by
    rw [show (b : Int) * (E : Int) = ((b * E : Nat) : Int) from by simp, wrap_nat, h2]
  have e2 : (a : Int) / (D : Int) = ((a / D : Nat) : Int) := by simp
  have e3 : (a / D) ||| (b % D' * E) = a / D + b % D' * E := by
    have := or_add (b % D') (a / D) k (by omega)
    rw [← hE] at this
    rw [Nat.or_comm, this, Nat.add_comm]
  rw [e1, e2, u64_or_nat _ _ h4 h3, e3]
theorem four_val (a b c d e : Nat) (ha : a < 2251799813685248) (hb : b < 2251799813685248) (hc : c < 2251799813685248) (hd : d < 2251799813685248) (he : e < 2251799813685248) :
    encQ (a + b % 8192 * 2251799813685248) (b / 8192 + c % 67108864 * 274877906944) (c / 67108864 + d % 549755813888 * 33554432) (d / 549755813888 + e % 4503599627370496 * 4096) = enc (val5 [a, b, c, d, e]) := by
  have d1 := Nat.div_add_mod b 8192
  have d2 := Nat.div_add_mod c 67108864
  have d3 := Nat.div_add_mod d 549755813888
  rw [Nat.mod_eq_of_lt (show e < 4503599627370496 by omega)]
  unfold enc
  have e0 : val5 [a, b, c, d, e] = (a + b % 8192 * 2251799813685248) + (b / 8192 + c % 67108864 * 274877906944) * 18446744073709551616 + (c / 67108864 + d % 549755813888 * 33554432) * 340282366920938463463374607431768211456 + (d / 549755813888 + e * 4096) * 6277101735386680763835789423207666416102355444464034512896 := by
    simp only [val5]
    generalize b / 8192 = b1 at *
    generalize b % 8192 = b2 at *
    generalize c / 67108864 = c1 at *
    generalize c % 67108864 = c2 at *
    generalize d / 549755813888 = d1 at *
    generalize d % 549755813888 = d2 at *
    omega
  have k0 : a + b % 8192 * 2251799813685248 < 18446744073709551616 := by omega
  have k1 : b / 8192 + c % 67108864 * 274877906944 < 18446744073709551616 := by omega
  have k2 : c / 67108864 + d % 549755813888 * 33554432 < 18446744073709551616 := by omega
  have k3 : d / 549755813888 + e * 4096 < 18446744073709551616 := by omega
  rw [e0]
  generalize a + b % 8192 * 2251799813685248 = n0 at *
  generalize b / 8192 + c % 67108864 * 274877906944 = n1 at *
  generalize c / 67108864 + d % 549755813888 * 33554432 = n2 at *
  generalize d / 549755813888 + e * 4096 = n3 at *
  clear d1 d2 d3 e0
  congr 1 <;> omega
end Go.Proofs.Ytgdimnbdnepbgaa
/- The field's number: five words become 32 bytes. No statement is proved here. -/
namespace Go.Proofs.Ytgdimnbdnepbgaa
open Go.RowKit
set_option linter.unusedVariables false
set_option linter.unusedSimpArgs false
set_option maxRecDepth 40000

theorem zero23 (w : World) : (zeroValue 23).run Try.prog w = .ok (.agg (zbs 32)) w := by kernel_rfl
theorem under23 : Try.prog.underlying 23 = some (.array 32 5) := by kernel_rfl
theorem size23 : (Try.prog.info? 23).map (·.size) = some 32 := by kernel_rfl

/-- The memory of number. -/
structure Nb (g : Nat) (ws : List Nat) (w : World) (l : List UInt8) (w' : World) : Prop where
  at_ : WAt w' g ws
  old : g < w.heap.size
  len : l.length = 32
  row : ∃ t, w'.heap[w.heap.size]? = some (.cells (bcs l).toArray t (0, 0))
  keeps : Keeps (· = g) w w'
theorem Nb.pb {g : Nat} {ws : List Nat} {w : World} {l : List UInt8} {w' : World} (h : Nb g ws w l w') : Pb w.heap.size w' 32 l w' := ⟨h.len, h.row, Keeps.refl _ _⟩
theorem Nb.set {g : Nat} {ws : List Nat} {w : World} {l l' : List UInt8} {w' w'' : World} (h : Nb g ws w l w') (k : Pb w.heap.size w' 32 l' w'') : Nb g ws w l' w'' :=
  ⟨h.at_.keeps k.keeps (by have := h.old; show ¬ g = _; omega), h.old, k.len, k.row, ⟨k.keeps.os.trans h.keeps.os, k.keeps.tape.trans h.keeps.tape, k.keeps.output.trans h.keeps.output, Nat.le_trans h.keeps.size k.keeps.size,
    fun i hi hg => (k.keeps.block i (Nat.lt_of_lt_of_le hi h.keeps.size) (by show ¬ i = _; omega)).trans (h.keeps.block i hi hg)⟩⟩
theorem Nb.drew1 {g : Nat} {ws : List Nat} {w : World} {l : List UInt8} {w' : World} (h : Nb g ws w l w') : Nb g ws w l { heap := w'.heap, tape := w'.tape, drawn := w'.drawn + 1, os := w'.os, output := w'.output } :=
  ⟨h.at_, h.old, h.len, h.row, h.keeps.trans (Keeps.drewN _ _ 1)⟩

set_option maxHeartbeats 2000000 in
theorem number_core (g : Nat) (o : List Nat) (a b c d e n0 n1 n2 n3 : Nat) (w : World) (HW : Hid (WAt w g o))
    (HL : Hid (∀ w', WAt w' g o → Calls Try.prog 93 #[.pointer (some ⟨g, 0, none⟩)] w' (Sets g [a, b, c, d, e] w')))
    (V0 : Hid (bits .or .u64 (a : Int) (IntKind.u64.wrap ((b : Int) * 2251799813685248)) = (n0 : Int)))
    (V1 : Hid (bits .or .u64 ((b : Int) / 8192) (IntKind.u64.wrap ((c : Int) * 274877906944)) = (n1 : Int)))
    (V2 : Hid (bits .or .u64 ((c : Int) / 67108864) (IntKind.u64.wrap ((d : Int) * 33554432)) = (n2 : Int)))
    (V3 : Hid (bits .or .u64 ((d : Int) / 549755813888) (IntKind.u64.wrap ((e : Int) * 4096)) = (n3 : Int))) :
    Calls Try.prog 66 #[.pointer (some ⟨g, 0, none⟩)] w fun x w' => x = .returned (.agg (bcs (encQ n0 n1 n2 n3)).toArray) ∧ Keeps (· = g) w w' := by
  have HO : Hid (g < w.heap.size) := HW.out.lt
  go_enter Try.func66, Try.ntmps66
  go_wp2_with (with_reducible refine wpList_alloc_row rfl 23 rfl (.agg (zbs 32)) zero23 ?_; intro w0 hh0 hz0 hg0; have HZ0 := Lib.hid hz0; have HH0 := Lib.hid hh0; have HG0 := Lib.hid hg0; clear hz0 hh0 hg0)
  refine (HL.out _ (HW.out.grown HG0.out (by simp))).mono ?_
  rintro x w1 ⟨rfl, ha, hk⟩
  have S : Hid (Nb g [a, b, c, d, e] w (List.replicate 32 0) w1) :=
    ⟨ha, HO.out, rfl, ⟨23, (hk.block w.heap.size (by have := HZ0.out; omega) (by have := HO.out; show ¬ _ = g; omega)).trans HH0.out⟩, (Keeps.of_grown HG0.out (fun r hr => by cases hr)).trans hk⟩
  clear ha hk HZ0 HH0 HG0 HW HL
  have c0 := S.out.at_.cell 0 (by omega)
  have c1 := S.out.at_.cell 1 (by omega)
  simp only [List.getD_cons_zero, List.getD_cons_succ] at c0 c1
  go_wp2_with fail
  go_still_tail 11, (by kernel_rfl)
  clear c0 c1
  have S' : Hid (Nb g [a, b, c, d, e] w (List.replicate 32 0) { heap := w1.heap, tape := w1.tape, drawn := w1.drawn + 1, os := w1.os, output := w1.output }) := S.out.drew1
  clear S
  generalize ({ heap := w1.heap, tape := w1.tape, drawn := w1.drawn + 1, os := w1.os, output := w1.output } : World) = z0 at *
  rw [V0.out]
  clear V0
  go_wp2_with fail
  refine (setQuad_any w.heap.size 0 32 32 n0 _ z0 (by omega) S'.out.pb).mono ?_
  rintro x y0 ⟨rfl, hp⟩
  have S := Lib.hid (S'.out.set hp)
  clear S' hp
  have c0 := S.out.at_.cell 1 (by omega)
  have c1 := S.out.at_.cell 2 (by omega)
  simp only [List.getD_cons_zero, List.getD_cons_succ] at c0 c1
  go_wp2_with fail
  go_still_tail 12, (by kernel_rfl)
  clear c0 c1
  have S' : Hid (Nb g [a, b, c, d, e] w (put8 (List.replicate 32 0) 0 n0) { heap := y0.heap, tape := y0.tape, drawn := y0.drawn + 1, os := y0.os, output := y0.output }) := S.out.drew1
  clear S
  generalize ({ heap := y0.heap, tape := y0.tape, drawn := y0.drawn + 1, os := y0.os, output := y0.output } : World) = z1 at *
  rw [V1.out]
  clear V1
  go_wp2_with fail
  refine (setQuad_any w.heap.size 8 24 32 n1 _ z1 (by omega) S'.out.pb).mono ?_
  rintro x y1 ⟨rfl, hp⟩
  have S := Lib.hid (S'.out.set hp)
  clear S' hp
  have c0 := S.out.at_.cell 2 (by omega)
  have c1 := S.out.at_.cell 3 (by omega)
  simp only [List.getD_cons_zero, List.getD_cons_succ] at c0 c1
  go_wp2_with fail
  go_still_tail 12, (by kernel_rfl)
  clear c0 c1
  have S' : Hid (Nb g [a, b, c, d, e] w (put8 (put8 (List.replicate 32 0) 0 n0) 8 n1) { heap := y1.heap, tape := y1.tape, drawn := y1.drawn + 1, os := y1.os, output := y1.output }) := S.out.drew1
  clear S
  generalize ({ heap := y1.heap, tape := y1.tape, drawn := y1.drawn + 1, os := y1.os, output := y1.output } : World) = z2 at *
  rw [V2.out]
  clear V2
  go_wp2_with fail
  refine (setQuad_any w.heap.size 16 16 32 n2 _ z2 (by omega) S'.out.pb).mono ?_
  rintro x y2 ⟨rfl, hp⟩
  have S := Lib.hid (S'.out.set hp)
  clear S' hp
  have c0 := S.out.at_.cell 3 (by omega)
  have c1 := S.out.at_.cell 4 (by omega)
  simp only [List.getD_cons_zero, List.getD_cons_succ] at c0 c1
  go_wp2_with fail
  go_still_tail 12, (by kernel_rfl)
  clear c0 c1
  have S' : Hid (Nb g [a, b, c, d, e] w (put8 (put8 (put8 (List.replicate 32 0) 0 n0) 8 n1) 16 n2) { heap := y2.heap, tape := y2.tape, drawn := y2.drawn + 1, os := y2.os, output := y2.output }) := S.out.drew1
  clear S
  generalize ({ heap := y2.heap, tape := y2.tape, drawn := y2.drawn + 1, os := y2.os, output := y2.output } : World) = z3 at *
  rw [V3.out]
  clear V3
  go_wp2_with fail
  refine (setQuad_any w.heap.size 24 8 32 n3 _ z3 (by omega) S'.out.pb).mono ?_
  rintro x y3 ⟨rfl, hp⟩
  have S := Lib.hid (S'.out.set hp)
  clear S' hp
  have HF : Hid (Nb g [a, b, c, d, e] w (encQ n0 n1 n2 n3) y3) := by
    have h := S.out
    rw [put_zero] at h
    exact h
  clear S
  have HLen : Hid ((encQ n0 n1 n2 n3).length = 32) := HF.out.len
  obtain ⟨L, hLe⟩ : ∃ L, L = encQ n0 n1 n2 n3 := ⟨_, rfl⟩
  rw [← hLe] at HF HLen
  have HLE := Lib.hid hLe
  clear hLe
  obtain ⟨t, ht⟩ := HF.out.row
  have HT := Lib.hid ht
  clear ht
  go_wp2_with (first | ((with_reducible show wpList _ _ _ (⟨_, .load 23 (.tmp 2), _, _, _, _⟩ :: _) _ _); go_must (refine wpList_load_arr rfl 23 (.tmp 2) rfl w.heap.size 0 rfl (bcs L) (fun i u hu => by rw [Nat.zero_add]; exact row_cells HT.out i u (by simpa using hu)) _ under23 rfl (by rw [bcs_len, HLen.out]; exact size23) ?_)) | ((with_reducible show wpList _ _ _ (⟨none, .store 23 (.tmp 2) (.tmp 56), _, _, _, _⟩ :: _) _ _); go_must (refine wpList_store_all rfl 23 (.tmp 2) (.tmp 56) rfl w.heap.size rfl (bcs L).toArray rfl t _ HT.out (by rw [List.size_toArray, bcs_len, HLen.out]; exact size23) rfl (bcs_one _) ?_; intro v3 hh3 hg3 hz3; have HH3 := Lib.hid hh3; have HK3 := Lib.hid ((HF.out.set ⟨HLen.out, ⟨t, hh3⟩, Keeps.of_grown hg3 (fun r hr => by injection hr with hr; exact hr.symm)⟩)); clear hh3 hg3 hz3)))
  refine bodyPost_ret (results_cell_row rfl _ _ w.heap.size t (bcs L).toArray _ _ rfl HH3.out under23 rfl (by rw [List.size_toArray, bcs_len, HLen.out]; exact size23)) rfl ?_
  exact ⟨by rw [HLE.out], HK3.out.keeps⟩

theorem number_any (g : Nat) (o : List Nat) (w : World) (hw : WAt w g o) (ho : Bnd 9223372036854775808 o) :
    Calls Try.prog 66 #[.pointer (some ⟨g, 0, none⟩)] w fun x w' => x = .returned (.agg (bcs (enc (val5 o % 57896044618658097711785492504343953926634992332820282019728792003956564819949))).toArray) ∧ Keeps (· = g) w w' := by
  obtain ⟨hv, hb⟩ := least_val o ho
  have hL : ∀ w', WAt w' g o → Calls Try.prog 93 #[.pointer (some ⟨g, 0, none⟩)] w' (Sets g (leastL o) w') := fun w' h => least_any g o w' h ho
  rw [← hv]
  clear hv
  generalize leastL o = R at *
  obtain ⟨a, b, c, d, e, rfl, ha, hb, hc, hd, he⟩ := bnd5 hb
  rw [← four_val a b c d e ha hb hc hd he]
  have v0 := cross_or a b 1 2251799813685248 51 rfl 8192 (by omega) rfl ha (by omega)
  rw [show (a : Int) / ((1 : Nat) : Int) = (a : Int) from by simp, Nat.div_one] at v0
  exact number_core g o a b c d e _ _ _ _ w hw hL (Lib.hid v0) (cross_or b c 8192 274877906944 38 rfl 67108864 (by omega) rfl hb (by omega)) (cross_or c d 67108864 33554432 25 rfl 549755813888 (by omega) rfl hc (by omega)) (cross_or d e 549755813888 4096 12 rfl 4503599627370496 (by omega) rfl hd (by omega))
end Go.Proofs.Ytgdimnbdnepbgaa
/- The field's shift of an exponent. No statement is proved here. -/
namespace Go.Proofs.Ytgdimnbdnepbgaa
open Go.RowKit
set_option linter.unusedVariables false
set_option linter.unusedSimpArgs false
set_option maxRecDepth 40000

/-- Four words lie in row g. -/
def QAt (w : World) (g : Nat) (o : List Nat) : Prop := o.length = 4 ∧ ∃ t, w.heap[g]? = some (.cells (ucs o).toArray t (0, 0))
theorem QAt.lt {w : World} {g : Nat} {o : List Nat} (h : QAt w g o) : g < w.heap.size := by
  obtain ⟨_, t, ht⟩ := h
  exact (Array.getElem?_eq_some_iff.1 ht).1
theorem QAt.keeps {G : Nat → Prop} {w w' : World} {g : Nat} {o : List Nat} (h : QAt w g o) (hk : Keeps G w w') (hg : ¬ G g) : QAt w' g o := by
  have := h.lt
  obtain ⟨hl, t, ht⟩ := h
  exact ⟨hl, t, (hk.block g this hg).trans ht⟩
theorem QAt.cell {w : World} {g : Nat} {o : List Nat} (h : QAt w g o) (i : Nat) (hi : i < 4) : w.cell? ⟨g, i, none⟩ = some (.int .u64 (o.getD i 0 : Nat)) := by
  obtain ⟨hl, t, ht⟩ := h
  exact word_cell ht i (by omega)
/-- The memory of shift. -/
structure Qs (g : Nat) (w : World) (o : List Nat) (w' : World) : Prop where
  at_ : QAt w' g o
  keeps : Keeps (· = g) w w'
theorem Qs.set {g : Nat} {w : World} {o : List Nat} {w' w'' : World} {t : TypeId} (h : Qs g w o w') (hg : w'.grownBy w'' (some g)) (i x : Nat) (hh : w''.heap[g]? = some (.cells (ucs (o.set i x)).toArray t (0, 0))) : Qs g w (o.set i x) w'' :=
  ⟨⟨by rw [List.length_set]; exact h.at_.1, t, hh⟩, h.keeps.trans (Keeps.of_grown hg (fun r hr => by injection hr with hr; exact hr.symm))⟩
theorem Qs.drewN {g : Nat} {w : World} {o : List Nat} {w' : World} (h : Qs g w o w') (n : Nat) : Qs g w o (w'.drewN n) :=
  ⟨h.at_, h.keeps.trans (Keeps.drewN _ _ _)⟩

set_option maxHeartbeats 2000000 in
theorem shift_core (g q0 q1 q2 q3 r0 r1 r2 r3 : Nat) (b : Bool) (w : World) (S : Hid (Qs g w [q0, q1, q2, q3] w))
    (VT : Hid (((q3 : Int) / 9223372036854775808 == 1) = b))
    (V3 : Hid (bits .or .u64 (IntKind.u64.wrap ((q3 : Int) * 2)) ((q2 : Int) / 9223372036854775808) = (r3 : Int)))
    (V2 : Hid (bits .or .u64 (IntKind.u64.wrap ((q2 : Int) * 2)) ((q1 : Int) / 9223372036854775808) = (r2 : Int)))
    (V1 : Hid (bits .or .u64 (IntKind.u64.wrap ((q1 : Int) * 2)) ((q0 : Int) / 9223372036854775808) = (r1 : Int)))
    (V0 : Hid (IntKind.u64.wrap ((q0 : Int) * 2) = (r0 : Int))) :
    Calls Try.prog 99 #[.pointer (some ⟨g, 0, none⟩)] w fun e w' => e = .returned (.bool b) ∧ QAt w' g [r0, r1, r2, r3] ∧ Keeps (· = g) w w' := by
  have c3 := S.out.at_.cell 3 (by omega)
  simp only [List.getD_cons_zero, List.getD_cons_succ] at c3
  go_enter Try.func99, Try.ntmps99
  go_wp2_with fail
  clear c3
  have c0 := S.out.at_.cell 3 (by omega)
  have c1 := S.out.at_.cell 2 (by omega)
  simp only [List.getD_cons_zero, List.getD_cons_succ] at c0 c1
  have c0' : ({ heap := w.heap, tape := w.tape, drawn := w.drawn + 1, os := w.os, output := w.output } : World).cell? ⟨g, 3, none⟩ = some (.int .u64 (q3 : Int)) := c0
  have c1' : ({ heap := w.heap, tape := w.tape, drawn := w.drawn + 1, os := w.os, output := w.output } : World).cell? ⟨g, 2, none⟩ = some (.int .u64 (q2 : Int)) := c1
  go_still_tail 14, (by kernel_rfl)
  clear c0 c1 c0' c1'
  have HD : Hid (Qs g w [q0, q1, q2, q3] { heap := w.heap, tape := w.tape, drawn := w.drawn + 1, os := w.os, output := w.output }) := S.out.drewN 1
  clear S
  obtain ⟨z0, hz⟩ : ∃ z, z = ({ heap := w.heap, tape := w.tape, drawn := w.drawn + 1, os := w.os, output := w.output } : World) := ⟨_, rfl⟩
  rw [← hz] at HD
  rw [← hz]
  clear hz
  obtain ⟨t, ht⟩ := HD.out.at_.2
  refine wpList_store_one rfl 24 (.tmp 22) (.tmp 20) rfl g 3 rfl .u64 _ rfl t _ ht size24 (by simp [ucs_len]) ?_
  intro y0 hh hg hz
  rw [V3.out, ucs_set] at hh
  have S : Hid (Qs g w [q0, q1, q2, r3] y0) := HD.out.set hg 3 r3 hh
  clear hh hg hz ht HD V3
  go_wp2_with fail
  have c0 := S.out.at_.cell 2 (by omega)
  have c1 := S.out.at_.cell 1 (by omega)
  simp only [List.getD_cons_zero, List.getD_cons_succ] at c0 c1
  have c0' : ({ heap := y0.heap, tape := y0.tape, drawn := y0.drawn + 1, os := y0.os, output := y0.output } : World).cell? ⟨g, 2, none⟩ = some (.int .u64 (q2 : Int)) := c0
  have c1' : ({ heap := y0.heap, tape := y0.tape, drawn := y0.drawn + 1, os := y0.os, output := y0.output } : World).cell? ⟨g, 1, none⟩ = some (.int .u64 (q1 : Int)) := c1
  go_still_tail 14, (by kernel_rfl)
  clear c0 c1 c0' c1'
  have HD : Hid (Qs g w [q0, q1, q2, r3] { heap := y0.heap, tape := y0.tape, drawn := y0.drawn + 1, os := y0.os, output := y0.output }) := S.out.drewN 1
  clear S
  obtain ⟨z1, hz⟩ : ∃ z, z = ({ heap := y0.heap, tape := y0.tape, drawn := y0.drawn + 1, os := y0.os, output := y0.output } : World) := ⟨_, rfl⟩
  rw [← hz] at HD
  rw [← hz]
  clear hz
  obtain ⟨t, ht⟩ := HD.out.at_.2
  refine wpList_store_one rfl 24 (.tmp 36) (.tmp 34) rfl g 2 rfl .u64 _ rfl t _ ht size24 (by simp [ucs_len]) ?_
  intro y1 hh hg hz
  rw [V2.out, ucs_set] at hh
  have S : Hid (Qs g w [q0, q1, r2, r3] y1) := HD.out.set hg 2 r2 hh
  clear hh hg hz ht HD V2
  go_wp2_with fail
  have c0 := S.out.at_.cell 1 (by omega)
  have c1 := S.out.at_.cell 0 (by omega)
  simp only [List.getD_cons_zero, List.getD_cons_succ] at c0 c1
  have c0' : ({ heap := y1.heap, tape := y1.tape, drawn := y1.drawn + 1, os := y1.os, output := y1.output } : World).cell? ⟨g, 1, none⟩ = some (.int .u64 (q1 : Int)) := c0
  have c1' : ({ heap := y1.heap, tape := y1.tape, drawn := y1.drawn + 1, os := y1.os, output := y1.output } : World).cell? ⟨g, 0, none⟩ = some (.int .u64 (q0 : Int)) := c1
  go_still_tail 14, (by kernel_rfl)
  clear c0 c1 c0' c1'
  have HD : Hid (Qs g w [q0, q1, r2, r3] { heap := y1.heap, tape := y1.tape, drawn := y1.drawn + 1, os := y1.os, output := y1.output }) := S.out.drewN 1
  clear S
  obtain ⟨z2, hz⟩ : ∃ z, z = ({ heap := y1.heap, tape := y1.tape, drawn := y1.drawn + 1, os := y1.os, output := y1.output } : World) := ⟨_, rfl⟩
  rw [← hz] at HD
  rw [← hz]
  clear hz
  obtain ⟨t, ht⟩ := HD.out.at_.2
  refine wpList_store_one rfl 24 (.tmp 50) (.tmp 48) rfl g 1 rfl .u64 _ rfl t _ ht size24 (by simp [ucs_len]) ?_
  intro y2 hh hg hz
  rw [V1.out, ucs_set] at hh
  have S : Hid (Qs g w [q0, r1, r2, r3] y2) := HD.out.set hg 1 r1 hh
  clear hh hg hz ht HD V1
  go_wp2_with fail
  have c0 := S.out.at_.cell 0 (by omega)
  simp only [List.getD_cons_zero, List.getD_cons_succ] at c0
  have c0' : ({ heap := y2.heap, tape := y2.tape, drawn := y2.drawn + 1, os := y2.os, output := y2.output } : World).cell? ⟨g, 0, none⟩ = some (.int .u64 (q0 : Int)) := c0
  go_still_tail 7, (by kernel_rfl)
  clear c0 c0'
  have HD : Hid (Qs g w [q0, r1, r2, r3] { heap := y2.heap, tape := y2.tape, drawn := y2.drawn + 1, os := y2.os, output := y2.output }) := S.out.drewN 1
  clear S
  obtain ⟨z3, hz⟩ : ∃ z, z = ({ heap := y2.heap, tape := y2.tape, drawn := y2.drawn + 1, os := y2.os, output := y2.output } : World) := ⟨_, rfl⟩
  rw [← hz] at HD
  rw [← hz]
  clear hz
  obtain ⟨t, ht⟩ := HD.out.at_.2
  refine wpList_store_one rfl 24 (.tmp 57) (.tmp 55) rfl g 0 rfl .u64 _ rfl t _ ht size24 (by simp [ucs_len]) ?_
  intro y3 hh hg hz
  rw [V0.out, ucs_set] at hh
  have S : Hid (Qs g w [r0, r1, r2, r3] y3) := HD.out.set hg 0 r0 hh
  clear hh hg hz ht HD V0
  go_wp2_with fail
  go_ret
  exact ⟨congrArg (fun x => Ending.returned (.bool x)) VT.out, S.out.at_, S.out.keeps⟩

def val4 : List Nat → Nat
  | [a, b, c, d] => a + b * 18446744073709551616 + c * 340282366920938463463374607431768211456 + d * 6277101735386680763835789423207666416102355444464034512896
  | _ => 0
/-- Each of the four words fits. -/
def Q64 (o : List Nat) : Prop := o.length = 4 ∧ ∀ i, i < 4 → o.getD i 0 < 18446744073709551616
theorem q64 {o : List Nat} (h : Q64 o) : ∃ a b c d, o = [a, b, c, d] ∧ a < 18446744073709551616 ∧ b < 18446744073709551616 ∧ c < 18446744073709551616 ∧ d < 18446744073709551616 := by
  obtain ⟨hl, hb⟩ := h
  match o, hl with
  | [a, b, c, d], _ => exact ⟨a, b, c, d, rfl, hb 0 (by omega), hb 1 (by omega), hb 2 (by omega), hb 3 (by omega)⟩
theorem q64' {a b c d : Nat} (h : a < 18446744073709551616 ∧ b < 18446744073709551616 ∧ c < 18446744073709551616 ∧ d < 18446744073709551616) : Q64 [a, b, c, d] := by
  refine ⟨rfl, fun i hi => ?_⟩
  match i, hi with
  | 0, _ => exact h.1
  | 1, _ => exact h.2.1
  | 2, _ => exact h.2.2.1
  | 3, _ => exact h.2.2.2
theorem shl_or (a b : Nat) (hb : b < 18446744073709551616) : bits .or .u64 (IntKind.u64.wrap ((a : Int) * 2)) ((b : Int) / 9223372036854775808) = ((a * 2 % 18446744073709551616 + b / 9223372036854775808 : Nat) : Int) := by
  have e1 : IntKind.u64.wrap ((a : Int) * 2) = ((a * 2 % 18446744073709551616 : Nat) : Int) := by rw [IntKind.wrap_u64]; omega
  have e2 : (b : Int) / 9223372036854775808 = ((b / 9223372036854775808 : Nat) : Int) := by omega
  rw [e1, e2, u64_or_nat _ _ (mod64 _) (by omega)]
  congr 1
  have e3 : a * 2 % 18446744073709551616 = a % 9223372036854775808 * 2 ^ 1 := by omega
  rw [e3]
  exact or_add _ _ 1 (by omega)
/-- Shifted by one bit. -/
def shl4 : List Nat → List Nat
  | [a, b, c, d] => [a * 2 % 18446744073709551616, b * 2 % 18446744073709551616 + a / 9223372036854775808, c * 2 % 18446744073709551616 + b / 9223372036854775808, d * 2 % 18446744073709551616 + c / 9223372036854775808]
  | _ => []
def top4 : List Nat → Nat
  | [_, _, _, d] => d / 9223372036854775808
  | _ => 0
theorem shl4_val (o : List Nat) (h : Q64 o) : val4 o * 2 = top4 o * 115792089237316195423570985008687907853269984665640564039457584007913129639936 + val4 (shl4 o) ∧ Q64 (shl4 o) ∧ top4 o ≤ 1 := by
  obtain ⟨a, b, c, d, rfl, ha, hb, hc, hd⟩ := q64 h
  have ea : a * 2 % 18446744073709551616 = a % 9223372036854775808 * 2 := by omega
  have eb : b * 2 % 18446744073709551616 = b % 9223372036854775808 * 2 := by omega
  have ec : c * 2 % 18446744073709551616 = c % 9223372036854775808 * 2 := by omega
  have ed : d * 2 % 18446744073709551616 = d % 9223372036854775808 * 2 := by omega
  simp only [val4, shl4, top4, ea, eb, ec, ed]
  refine ⟨?_, q64' ?_, by omega⟩
  · have da := Nat.div_add_mod a 9223372036854775808
    have db := Nat.div_add_mod b 9223372036854775808
    have dc := Nat.div_add_mod c 9223372036854775808
    have dd := Nat.div_add_mod d 9223372036854775808
    clear ea eb ec ed h
    generalize a / 9223372036854775808 = a1 at *
    generalize a % 9223372036854775808 = a2 at *
    generalize b / 9223372036854775808 = b1 at *
    generalize b % 9223372036854775808 = b2 at *
    generalize c / 9223372036854775808 = c1 at *
    generalize c % 9223372036854775808 = c2 at *
    generalize d / 9223372036854775808 = d1 at *
    generalize d % 9223372036854775808 = d2 at *
    omega
  · omega
theorem val4_lt (o : List Nat) (h : Q64 o) : val4 o < 115792089237316195423570985008687907853269984665640564039457584007913129639936 := by
  obtain ⟨a, b, c, d, rfl, ha, hb, hc, hd⟩ := q64 h
  simp only [val4]
  omega
theorem shift_any (g : Nat) (o : List Nat) (w : World) (hw : QAt w g o) (ho : Q64 o) :
    Calls Try.prog 99 #[.pointer (some ⟨g, 0, none⟩)] w fun e w' => e = .returned (.bool (decide (top4 o = 1))) ∧ QAt w' g (shl4 o) ∧ Keeps (· = g) w w' := by
  obtain ⟨a, b, c, d, rfl, ha, hb, hc, hd⟩ := q64 ho
  refine shift_core g a b c d _ _ _ _ _ w (Lib.hid ⟨hw, Keeps.refl _ _⟩) ?_ (shl_or d c hc) (shl_or c b hb) (shl_or b a ha) ?_
  · show ((d : Int) / 9223372036854775808 == 1) = decide (d / 9223372036854775808 = 1)
    rw [Bool.eq_iff_iff]
    simp only [beq_iff_eq, decide_eq_true_eq]
    omega
  · exact Lib.hid (by rw [IntKind.wrap_u64]; omega)
end Go.Proofs.Ytgdimnbdnepbgaa
/- The field's pow. No statement is proved here. -/
namespace Go.Proofs.Ytgdimnbdnepbgaa
open Go.RowKit
set_option linter.unusedVariables false
set_option linter.unusedSimpArgs false
set_option maxRecDepth 40000

theorem under60 : Try.prog.underlying 60 = some (.array 5 24) := by kernel_rfl
theorem size60 : (Try.prog.info? 60).map (·.size) = some 5 := by kernel_rfl
theorem zero60 (w : World) : (zeroValue 60).run Try.prog w = .ok (.agg (zw 5)) w := by kernel_rfl

/-- The memory of pow: what is left of the exponent, and the power so far. -/
structure Pw (w : World) (gq gr : Nat) (q o : List Nat) (w' : World) : Prop where
  q : QAt w' gq q
  r : WAt w' gr o
  hq : w.heap.size ≤ gq
  hr : w.heap.size ≤ gr
  ne : gq ≠ gr
  bel : Below w.heap.size w w'
theorem Pw.mul {w : World} {gq gr : Nat} {q o o' : List Nat} {w' w'' : World} (h : Pw w gq gr q o w') (hr : WAt w'' gr o') (hk : Keeps (· = gr) w' w'') : Pw w gq gr q o' w'' :=
  ⟨h.q.keeps hk (by show ¬ _ = _; exact h.ne), hr, h.hq, h.hr, h.ne, h.bel.trans (hk.below h.bel.size (fun k hlt => by show ¬ k = gr; have := h.hr; omega))⟩
theorem Pw.shift {w : World} {gq gr : Nat} {q q' o : List Nat} {w' w'' : World} (h : Pw w gq gr q o w') (hq : QAt w'' gq q') (hk : Keeps (· = gq) w' w'') : Pw w gq gr q' o w'' :=
  ⟨hq, h.r.keeps hk (by show ¬ _ = _; exact fun e => h.ne e.symm), h.hq, h.hr, h.ne, h.bel.trans (hk.below h.bel.size (fun k hlt => by show ¬ k = gq; have := h.hq; omega))⟩

/-- The state of the loop in numbers: E shifted n times, the power so far. -/
structure Pn (a E n : Nat) (q o : List Nat) : Prop where
  q64 : Q64 q
  bnd : Bnd 4503599627370496 o
  num : ∃ e, E * 2 ^ n = e * 115792089237316195423570985008687907853269984665640564039457584007913129639936 + val4 q ∧ val5 o % 57896044618658097711785492504343953926634992332820282019728792003956564819949 = a ^ e % 57896044618658097711785492504343953926634992332820282019728792003956564819949
theorem Pn.zero {a n E : Nat} {q al o : List Nat} (h : Pn a E n q o) (ha : Bnd 4503599627370496 al) (hv : val5 al % 57896044618658097711785492504343953926634992332820282019728792003956564819949 = a % 57896044618658097711785492504343953926634992332820282019728792003956564819949) (ht : top4 q = 0) : Pn a E (n + 1) (shl4 q) (mulL o o) := by
  obtain ⟨hq, hb, e, h1, h2⟩ := h
  obtain ⟨s1, s2, s3⟩ := shl4_val q hq
  obtain ⟨m1, m2⟩ := mul_val o o hb hb
  refine ⟨s2, m2, 2 * e, ?_, ?_⟩
  · rw [Nat.pow_succ, ← Nat.mul_assoc, h1]
    rw [ht] at s1
    omega
  · rw [m1, Nat.mul_mod, h2, ← Nat.mul_mod, ← Nat.pow_add, Nat.two_mul]
theorem Pn.one {a n E : Nat} {q al o : List Nat} (h : Pn a E n q o) (ha : Bnd 4503599627370496 al) (hv : val5 al % 57896044618658097711785492504343953926634992332820282019728792003956564819949 = a % 57896044618658097711785492504343953926634992332820282019728792003956564819949) (ht : top4 q = 1) : Pn a E (n + 1) (shl4 q) (mulL (mulL o o) al) := by
  obtain ⟨hq, hb, e, h1, h2⟩ := h
  obtain ⟨s1, s2, s3⟩ := shl4_val q hq
  obtain ⟨m1, m2⟩ := mul_val o o hb hb
  obtain ⟨k1, k2⟩ := mul_val (mulL o o) al m2 ha
  refine ⟨s2, k2, 2 * e + 1, ?_, ?_⟩
  · rw [Nat.pow_succ, ← Nat.mul_assoc, h1]
    rw [ht] at s1
    omega
  · have hh : val5 o * val5 o % 57896044618658097711785492504343953926634992332820282019728792003956564819949 = a ^ e * a ^ e % 57896044618658097711785492504343953926634992332820282019728792003956564819949 := by rw [Nat.mul_mod, h2, ← Nat.mul_mod]
    rw [k1, Nat.mul_mod, m1, hh, hv, ← Nat.mul_mod, Nat.pow_succ, Nat.two_mul, Nat.pow_add]
theorem Pn.done {a E : Nat} {q o : List Nat} (h : Pn a E 256 q o) (hE : E < 115792089237316195423570985008687907853269984665640564039457584007913129639936) : val5 o % 57896044618658097711785492504343953926634992332820282019728792003956564819949 = a ^ E % 57896044618658097711785492504343953926634992332820282019728792003956564819949 := by
  obtain ⟨hq, hb, e, h1, h2⟩ := h
  have h3 := val4_lt q hq
  rw [show (2 : Nat) ^ 256 = 115792089237316195423570985008687907853269984665640564039457584007913129639936 from rfl] at h1
  have : e = E := by omega
  rw [h2, this]
theorem Pn.start {a E : Nat} {q : List Nat} (hq : Q64 q) (hE : val4 q = E) : Pn a E 0 q [1, 0, 0, 0, 0] :=
  ⟨hq, bnd5' (by omega), 0, by rw [hE]; omega, rfl⟩

/-- What pow leaves. -/
def PowAt (g a E : Nat) (w : World) (e : Ending) (w' : World) : Prop :=
  e = .returned (.tuple #[]) ∧ ∃ o, WAt w' g o ∧ Bnd 4503599627370496 o ∧ val5 o % 57896044618658097711785492504343953926634992332820282019728792003956564819949 = a ^ E % 57896044618658097711785492504343953926634992332820282019728792003956564819949 ∧ Keeps (· = g) w w'

set_option maxHeartbeats 2000000 in
theorem pow_core (g ga ge a E : Nat) (o al q : List Nat) (l : List UInt8) (w : World) (HW : Hid (WAt w g o)) (HA : Hid (WAt w ga al)) (HE : Hid (NumAt w ge l))
    (M0 : Hid (∀ w', NumAt w' ge l → Calls Try.prog 92 #[.pointer (some ⟨ge, 0, none⟩)] w' (Gives (.agg (ucs q).toArray) w'))) (HQ : Hid (Q64 q)) (HQE : Hid (val4 q = E)) (HEL : Hid (E < 115792089237316195423570985008687907853269984665640564039457584007913129639936))
    (HB : Hid (Bnd 4503599627370496 al)) (HV : Hid (val5 al % 57896044618658097711785492504343953926634992332820282019728792003956564819949 = a % 57896044618658097711785492504343953926634992332820282019728792003956564819949)) :
    Calls Try.prog 76 #[.pointer (some ⟨g, 0, none⟩), .pointer (some ⟨ga, 0, none⟩), .pointer (some ⟨ge, 0, none⟩)] w (PowAt g a E w) := by
  have HO : Hid (g < w.heap.size) := HW.out.lt
  have HOA : Hid (ga < w.heap.size) := HA.out.lt
  go_enter Try.func76, Try.ntmps76
  go_wp2_with fail
  refine (M0.out _ HE.out).mono ?_
  rintro e w1 ⟨rfl, hb⟩
  have HB1 := Lib.hid hb
  clear hb M0 HE
  go_wp2_with (first | (with_reducible refine wpList_alloc_row rfl 91 rfl (.agg (zw 4)) zero91 ?_; intro w2 hh2 hz2 hg2; have HZ2 := Lib.hid hz2; have HG2 := Lib.hid hg2; have HH2 := Lib.hid hh2; clear hz2 hg2 hh2) | ((with_reducible show wpList _ _ _ (⟨none, .store 91 (.tmp 6) (.tmp 9), _, _, _, _⟩ :: _) _ _); go_must (refine wpList_store_all rfl 91 (.tmp 6) (.tmp 9) rfl w1.heap.size rfl (ucs q).toArray rfl 91 _ HH2.out (by rw [List.size_toArray, ucs_len, HQ.out.1]; exact size91) (by rw [List.size_toArray, ucs_len, HQ.out.1]; rfl) (ucs_one _) ?_; intro w3 hh3 hg3 hz3; have HH3 := Lib.hid hh3; have HG3 := Lib.hid hg3; have HZ3 := Lib.hid hz3; clear hh3 hg3 hz3)) | (with_reducible refine wpList_alloc_row rfl 60 rfl (.agg (zw 5)) zero60 ?_; intro w4 hh4 hz4 hg4; have HZ4 := Lib.hid hz4; have HG4 := Lib.hid hg4; have HH4 := Lib.hid hh4; clear hz4 hg4 hh4) | ((with_reducible show wpList _ _ _ (⟨none, .store 60 (.tmp 7) (.tmp 10), _, _, _, _⟩ :: _) _ _); go_must (refine wpList_store_all rfl 60 (.tmp 7) (.tmp 10) rfl w3.heap.size rfl (ucs [1, 0, 0, 0, 0]).toArray rfl 60 _ HH4.out size60 rfl (ucs_one _) ?_; intro w5 hh5 hg5 hz5; have HH5 := Lib.hid hh5; have HG5 := Lib.hid hg5; clear hh5 hg5 hz5)))
  have S : Hid (Pw w w1.heap.size w3.heap.size q [1, 0, 0, 0, 0] w5) := by
    have hs := HB1.out.size
    have e2 := HZ2.out
    have e3 := HZ3.out
    have k3 : Below w.heap.size w w3 := (HB1.out.grown HG2.out hs (by simp)).grown HG3.out (by omega) (fun r hr => by injection hr; omega)
    have k5 : Below w.heap.size w w5 := (k3.grown HG4.out (by omega) (by simp)).grown HG5.out (by have := HZ4.out; omega) (fun r hr => by injection hr; omega)
    refine ⟨⟨HQ.out.1, 91, ?_⟩, ⟨rfl, 60, HH5.out⟩, hs, by omega, by omega, k5⟩
    exact ((HG5.out.block _ (by have := HZ4.out; omega) (by simp; omega)).trans (HG4.out.block _ (by omega) (by simp))).trans HH3.out
  have HN : Hid (Pn a E 0 q [1, 0, 0, 0, 0]) := Pn.start HQ.out HQE.out
  clear HB1 HZ2 HG2 HH2 HZ3 HG3 HH3 HZ4 HG4 HH4 HG5 HH5 HQ HQE
  generalize w1.heap.size = gq at *
  generalize w3.heap.size = gr at *
  go_loopw [11] (fun i wr => ∃ (n : Nat) (q' o' : List Nat), n ≤ 256 ∧ i = .int .i64 n ∧ Pn a E n q' o' ∧ Pw w gq gr q' o' wr) (fun i _ => 256 - (intOf i).toNat)
  case atStart => exact ⟨0, q, _, by omega, rfl, HN.out, S.out⟩
  case round =>
    obtain ⟨n, q', o', hn, rfl, hpn, hpw⟩ := hrel
    have P := Lib.hid hpn
    have H := Lib.hid hpw
    clear hpn hpw S HN
    by_cases hlt : n < 256
    · have hni : (n : Int) < 256 := by omega
      go_wp2_with fail
      refine (mul_any gr gr gr o' o' o' _ H.out.r H.out.r H.out.r P.out.bnd P.out.bnd).mono ?_
      rintro e x1 ⟨rfl, hr, hk⟩
      have H1 := Lib.hid (H.out.mul hr hk)
      clear hr hk H
      go_wp2_with fail
      refine (shift_any gq q' _ H1.out.q P.out.q64).mono ?_
      rintro e x2 ⟨rfl, hr, hk⟩
      have H2 := Lib.hid (H1.out.shift hr hk)
      clear hr hk H1
      have ht := (shl4_val q' P.out.q64).2.2
      by_cases ht1 : top4 q' = 1
      · have hd : decide (top4 q' = 1) = true := by simp [ht1]
        have P1 := Lib.hid (P.out.one HB.out HV.out ht1)
        have HBN := Lib.hid (mul_val o' o' P.out.bnd P.out.bnd).2
        rw [hd]
        clear hd ht ht1 P
        generalize mulL o' o' = o2 at *
        go_wp2_with fail
        have HA2 : Hid (WAt x2 ga al) := HA.out.below H2.out.bel HOA.out
        refine (mul_any gr gr ga o2 o2 al _ H2.out.r H2.out.r HA2.out HBN.out HB.out).mono ?_
        rintro e x3 ⟨rfl, hr, hk⟩
        have H3 := Lib.hid (H2.out.mul hr hk)
        clear hr hk H2 HA2 HBN
        go_wp2_with fail
        exact ⟨⟨n + 1, _, _, by omega, by go_num, P1.out, H3.out⟩, by simp [intOf]; omega⟩
      · have hd : decide (top4 q' = 1) = false := by simp [ht1]
        have P1 := Lib.hid (P.out.zero HB.out HV.out (by omega))
        rw [hd]
        clear hd ht ht1 P
        go_wp2_with fail
        exact ⟨⟨n + 1, _, _, by omega, by go_num, P1.out, H2.out⟩, by simp [intOf]; omega⟩
    · obtain rfl : n = 256 := by omega
      have HV2 := Lib.hid (P.out.done HEL.out)
      have HB2 := Lib.hid P.out.bnd
      clear P
      obtain ⟨hl, tr, htr⟩ := H.out.r
      have HT := Lib.hid htr
      have HL := Lib.hid hl
      clear hl htr
      obtain ⟨tg, htg⟩ := (HW.out.below H.out.bel HO.out).2
      have HTG := Lib.hid htg
      clear htg
      have HWL : Hid (o.length = 5) := HW.out.1
      go_wp2_with (first | ((with_reducible show wpList _ _ _ (⟨_, .load 60 (.tmp 7), _, _, _, _⟩ :: _) _ _); go_must (refine wpList_load_arr rfl 60 (.tmp 7) rfl gr 0 rfl (ucs o') (fun i u hu => by rw [Nat.zero_add]; exact row_cells HT.out i u (by simpa using hu)) _ under60 rfl (by rw [ucs_len, HL.out]; exact size60) ?_)) | ((with_reducible show wpList _ _ _ (⟨none, .store 60 (.tmp 20) (.tmp 19), _, _, _, _⟩ :: _) _ _); go_must (refine wpList_store_all rfl 60 (.tmp 20) (.tmp 19) rfl g rfl (ucs o').toArray rfl tg _ HTG.out (by rw [List.size_toArray, ucs_len, HL.out]; exact size60) (by rw [List.size_toArray, List.size_toArray, ucs_len, ucs_len, HL.out, HWL.out]) (ucs_one _) ?_; intro v3 hh3 hg3 hz3; have HH3 := Lib.hid hh3; have HK3 : Hid (Keeps (· = g) w v3) := (Keeps.of_below H.out.bel).trans (Keeps.of_grown hg3 (fun r hr => by injection hr with hr; exact hr.symm)); clear hh3 hg3 hz3)))
      refine bodyPost_end (results_none rfl _ _ _) rfl ?_
      exact ⟨rfl, o', ⟨HL.out, tg, HH3.out⟩, HB2.out, HV2.out, HK3.out⟩

theorem q8s (l : List UInt8) : Q64 [q8 l 0, q8 l 8, q8 l 16, q8 l 24] := q64' ⟨q8_lt _ _, q8_lt _ _, q8_lt _ _, q8_lt _ _⟩
theorem pow_any (g ga ge : Nat) (o al : List Nat) (l : List UInt8) (a : Nat) (w : World) (hw : WAt w g o) (ha : WAt w ga al) (he : NumAt w ge l) (hb : Bnd 4503599627370496 al)
    (hv : val5 al % 57896044618658097711785492504343953926634992332820282019728792003956564819949 = a % 57896044618658097711785492504343953926634992332820282019728792003956564819949) :
    Calls Try.prog 76 #[.pointer (some ⟨g, 0, none⟩), .pointer (some ⟨ga, 0, none⟩), .pointer (some ⟨ge, 0, none⟩)] w (PowAt g a (nv l) w) :=
  pow_core g ga ge a (nv l) o al _ l w hw ha he (Lib.hid fun w' h => split_any ge l w' h) (q8s l) (Lib.hid rfl) (nv_lt l) hb hv
end Go.Proofs.Ytgdimnbdnepbgaa
/- The field's sum, difference and product of numbers. No statement is proved here. -/
namespace Go.Proofs.Ytgdimnbdnepbgaa
open Go.RowKit
set_option linter.unusedVariables false
set_option linter.unusedSimpArgs false
set_option maxRecDepth 40000

/-- The modulus. -/
def PP : Nat := 57896044618658097711785492504343953926634992332820282019728792003956564819949
/-- 2^256. -/
def TT : Nat := 115792089237316195423570985008687907853269984665640564039457584007913129639936
/-- A number as a value. -/
def vN (n : Nat) : Value := .agg (bcs (enc n)).toArray

theorem wpList_box_row {P : Program} {ops : Array Oper} {rest : List Oper} {o : Oper} {a : Act} {w : World} {Q : Exit → Act → World → Prop} (hgd : Region.wanted o (yielded ops a.tmps) = true) (elem : TypeId) (x : Operand) (ho : o.op = .box elem x) (cs : Array Value) (hx : a.eval x = .agg cs)
    (h : ∀ w', w'.heap[w.heap.size]? = some (.cells cs elem (0, 0)) → w'.heap.size = w.heap.size + 1 → w.grownBy w' none → wpList P ops Q rest (a.put o.dst (.pointer (some ⟨w.heap.size, 0, none⟩))) w') :
    wpList P ops Q (o :: rest) a w := by
  refine wpList_want hgd fun K hK => ?_
  have hrun : (Instr.box elem (.agg cs)).run P w = .ok (.pointer (some ⟨w.heap.size, 0, none⟩)) (w.alloc (.cells cs elem)) := by
    simp [Instr.box, newVar, newRow, Value.cells]
  unfold Oper.wp execOp
  simp only [ho, hx, Sem.run_bind, Sem.run_pure, Result.andThen_ok, hrun]
  exact hK _ _ (h _ (heap_alloc_new w _) (by simp) (World.grownBy_alloc w _ none))

/-- The memory of a function of two numbers: rows s, s + 1 the numbers, s + 2 the result, s + 3 and s + 4 words. -/
structure M2 (w : World) (la lb : List UInt8) (ov ow : List Nat) (w' : World) : Prop where
  a : NumAt w' w.heap.size la
  b : NumAt w' (w.heap.size + 1) lb
  r : w'.heap[w.heap.size + 2]? = some (.cells (zbs 32) 23 (0, 0))
  v : WAt w' (w.heap.size + 3) ov
  u : WAt w' (w.heap.size + 4) ow
  bel : Below w.heap.size w w'
theorem M2.setV {w : World} {la lb : List UInt8} {ov ow o : List Nat} {w' w'' : World} (h : M2 w la lb ov ow w') (hv : WAt w'' (w.heap.size + 3) o) (hk : Keeps (· = w.heap.size + 3) w' w'') : M2 w la lb o ow w'' :=
  ⟨h.a.keeps hk (by show ¬ _ = _; omega), h.b.keeps hk (by show ¬ _ = _; omega), (hk.block _ (Array.getElem?_eq_some_iff.1 h.r).1 (by show ¬ _ = _; omega)).trans h.r, hv, h.u.keeps hk (by show ¬ _ = _; omega), h.bel.trans (hk.below h.bel.size (fun k hlt => by show ¬ _ = _; omega))⟩
theorem M2.setW {w : World} {la lb : List UInt8} {ov ow o : List Nat} {w' w'' : World} (h : M2 w la lb ov ow w') (hv : WAt w'' (w.heap.size + 4) o) (hk : Keeps (· = w.heap.size + 4) w' w'') : M2 w la lb ov o w'' :=
  ⟨h.a.keeps hk (by show ¬ _ = _; omega), h.b.keeps hk (by show ¬ _ = _; omega), (hk.block _ (Array.getElem?_eq_some_iff.1 h.r).1 (by show ¬ _ = _; omega)).trans h.r, h.v.keeps hk (by show ¬ _ = _; omega), hv, h.bel.trans (hk.below h.bel.size (fun k hlt => by show ¬ _ = _; omega))⟩

/-- The memory of a function of one number: row s the number, s + 1 the result, s + 2 words. -/
structure M1 (w : World) (la : List UInt8) (ov : List Nat) (w' : World) : Prop where
  a : NumAt w' w.heap.size la
  r : w'.heap[w.heap.size + 1]? = some (.cells (zbs 32) 23 (0, 0))
  v : WAt w' (w.heap.size + 2) ov
  bel : Below w.heap.size w w'
theorem M1.setV {w : World} {la : List UInt8} {ov o : List Nat} {w' w'' : World} (h : M1 w la ov w') (hv : WAt w'' (w.heap.size + 2) o) (hk : Keeps (· = w.heap.size + 2) w' w'') : M1 w la o w'' :=
  ⟨h.a.keeps hk (by show ¬ _ = _; omega), (hk.block _ (Array.getElem?_eq_some_iff.1 h.r).1 (by show ¬ _ = _; omega)).trans h.r, hv, h.bel.trans (hk.below h.bel.size (fun k hlt => by show ¬ _ = _; omega))⟩

theorem M2.start {w : World} {la lb : List UInt8} {w1 w2 w3 w4 w5 : World} {cs4 cs5 : Array Value} (ha : la.length = 32) (hb : lb.length = 32)
    (h1 : w1.heap[w.heap.size]? = some (.cells (bcs la).toArray 23 (0, 0))) (z1 : w1.heap.size = w.heap.size + 1) (g1 : w.grownBy w1 none)
    (h2 : w2.heap[w1.heap.size]? = some (.cells (bcs lb).toArray 23 (0, 0))) (z2 : w2.heap.size = w1.heap.size + 1) (g2 : w1.grownBy w2 none)
    (h3 : w3.heap[w2.heap.size]? = some (.cells (zbs 32) 23 (0, 0))) (z3 : w3.heap.size = w2.heap.size + 1) (g3 : w2.grownBy w3 none)
    (h4 : w4.heap[w3.heap.size]? = some (.cells (zw 5) 60 (0, 0))) (z4 : w4.heap.size = w3.heap.size + 1) (g4 : w3.grownBy w4 none)
    (h5 : w5.heap[w4.heap.size]? = some (.cells (zw 5) 60 (0, 0))) (z5 : w5.heap.size = w4.heap.size + 1) (g5 : w4.grownBy w5 none) :
    M2 w la lb [0, 0, 0, 0, 0] [0, 0, 0, 0, 0] w5 := by
  have b1 := below_of_grownBy g1
  have b2 := below_of_grownBy g2
  have b3 := below_of_grownBy g3
  have b4 := below_of_grownBy g4
  have b5 := below_of_grownBy g5
  rw [show w1.heap.size = w.heap.size + 1 from z1] at h2 b2 z2
  rw [z2] at h3 b3 z3
  rw [z3] at h4 b4 z4
  rw [z4] at h5 b5 z5
  refine ⟨⟨ha, 23, ?_⟩, ⟨hb, 23, ?_⟩, ?_, ⟨rfl, 60, ?_⟩, ⟨rfl, 60, h5⟩, ?_⟩
  · exact (b5.block _ (by omega)).trans ((b4.block _ (by omega)).trans ((b3.block _ (by omega)).trans ((b2.block _ (by omega)).trans h1)))
  · exact (b5.block _ (by omega)).trans ((b4.block _ (by omega)).trans ((b3.block _ (by omega)).trans h2))
  · exact (b5.block _ (by omega)).trans ((b4.block _ (by omega)).trans h3)
  · exact (b5.block _ (by omega)).trans h4
  · exact b1.trans ((b2.mono (by omega)).trans ((b3.mono (by omega)).trans ((b4.mono (by omega)).trans (b5.mono (by omega)))))

set_option maxHeartbeats 1000000 in
theorem Add_core (la lb : List UInt8) (r : List Nat) (n : Nat) (w : World) (ha : Hid (la.length = 32)) (hb : Hid (lb.length = 32))
    (HR : Hid (∀ w', WAt w' (w.heap.size + 3) (rdw la) → WAt w' (w.heap.size + 4) (rdw lb) → Calls Try.prog 70 #[.pointer (some ⟨w.heap.size + 3, 0, none⟩), .pointer (some ⟨w.heap.size + 4, 0, none⟩)] w' (Sets (w.heap.size + 3) r w')))
    (HB : Hid (Bnd 9223372036854775808 r)) (HV : Hid (val5 r % 57896044618658097711785492504343953926634992332820282019728792003956564819949 = n)) :
    Calls Try.prog 19 #[.agg (bcs la).toArray, .agg (bcs lb).toArray] w (Gives (vN n) w) := by
  go_enter Try.func19, Try.ntmps19
  go_wp2_with (first | ((with_reducible show wpList _ _ _ (⟨some 2, .box 23 (.tmp 0), _, _, _, _⟩ :: _) _ _); go_must (refine wpList_box_row rfl 23 (.tmp 0) rfl (bcs la).toArray rfl ?_; intro w1 h1 z1 g1; have H1 := Lib.hid h1; have Z1 := Lib.hid z1; have G1 := Lib.hid g1; clear h1 z1 g1)) | ((with_reducible show wpList _ _ _ (⟨some 3, .box 23 (.tmp 1), _, _, _, _⟩ :: _) _ _); go_must (refine wpList_box_row rfl 23 (.tmp 1) rfl (bcs lb).toArray rfl ?_; intro w2 h1 z1 g1; have H2 := Lib.hid h1; have Z2 := Lib.hid z1; have G2 := Lib.hid g1; clear h1 z1 g1)) | (with_reducible refine wpList_alloc_row rfl 23 rfl (.agg (zbs 32)) zero23 ?_; intro w3 h1 z1 g1; have H3 := Lib.hid h1; have Z3 := Lib.hid z1; have G3 := Lib.hid g1; clear h1 z1 g1) | ((with_reducible show wpList _ _ _ (⟨some 5, .alloc 60, _, _, _, _⟩ :: _) _ _); go_must (refine wpList_alloc_row rfl 60 rfl (.agg (zw 5)) zero60 ?_; intro w4 h1 z1 g1; have H4 := Lib.hid h1; have Z4 := Lib.hid z1; have G4 := Lib.hid g1; clear h1 z1 g1)) | ((with_reducible show wpList _ _ _ (⟨some 6, .alloc 60, _, _, _, _⟩ :: _) _ _); go_must (refine wpList_alloc_row rfl 60 rfl (.agg (zw 5)) zero60 ?_; intro w5 h1 z1 g1; have H5 := Lib.hid h1; have Z5 := Lib.hid z1; have G5 := Lib.hid g1; clear h1 z1 g1)))
  have S : Hid (M2 w la lb [0, 0, 0, 0, 0] [0, 0, 0, 0, 0] w5) := M2.start (cs4 := #[]) (cs5 := #[]) ha.out hb.out H1.out Z1.out G1.out H2.out Z2.out G2.out H3.out Z3.out G3.out H4.out Z4.out G4.out H5.out Z5.out G5.out
  rw [show w4.heap.size = w.heap.size + 4 from by rw [Z4.out, Z3.out, Z2.out, Z1.out], show w3.heap.size = w.heap.size + 3 from by rw [Z3.out, Z2.out, Z1.out], show w2.heap.size = w.heap.size + 2 from by rw [Z2.out, Z1.out], show w1.heap.size = w.heap.size + 1 from by rw [Z1.out]]
  clear H1 Z1 G1 H2 Z2 G2 H3 Z3 G3 H4 Z4 G4 H5 Z5 G5 ha hb
  refine (read_any (w.heap.size + 3) w.heap.size _ la _ S.out.v S.out.a).mono ?_
  rintro e x1 ⟨rfl, hr, hk⟩
  have S1 := Lib.hid (S.out.setV hr hk)
  clear hr hk S
  go_wp2_with fail
  refine (read_any (w.heap.size + 4) (w.heap.size + 1) _ lb _ S1.out.u S1.out.b).mono ?_
  rintro e x2 ⟨rfl, hr, hk⟩
  have S2 := Lib.hid (S1.out.setW hr hk)
  clear hr hk S1
  go_wp2_with fail
  refine (HR.out _ S2.out.v S2.out.u).mono ?_
  rintro e x3 ⟨rfl, hr, hk⟩
  have S3 := Lib.hid (S2.out.setV hr hk)
  clear hr hk S2 HR
  go_wp2_with fail
  refine (number_any (w.heap.size + 3) r _ S3.out.v HB.out).mono ?_
  rintro e x4 ⟨rfl, hk⟩
  rw [HV.out]
  have HRow : Hid (x4.heap[w.heap.size + 2]? = some (.cells (zbs 32) 23 (0, 0))) := (hk.block _ (Array.getElem?_eq_some_iff.1 S3.out.r).1 (by show ¬ _ = _; omega)).trans S3.out.r
  have HBel : Hid (Below w.heap.size w x4) := S3.out.bel.trans (hk.below S3.out.bel.size (fun k hlt => by show ¬ _ = _; omega))
  clear hk S3 HV HB
  obtain ⟨L, hL⟩ : ∃ L, L = enc n := ⟨_, rfl⟩
  have HL : Hid (L.length = 32) := by rw [hL]; exact enc_len n
  have HLE : Hid (Value.agg (bcs L).toArray = vN n) := by rw [hL]; rfl
  rw [← hL]
  clear hL
  go_wp2_with ((with_reducible show wpList _ _ _ (⟨none, .store 23 (.tmp 4) (.tmp 10), _, _, _, _⟩ :: _) _ _); go_must (refine wpList_store_all rfl 23 (.tmp 4) (.tmp 10) rfl (w.heap.size + 2) rfl (bcs L).toArray rfl 23 _ HRow.out (by rw [List.size_toArray, bcs_len, HL.out]; exact size23) (by rw [List.size_toArray, bcs_len, HL.out]; rfl) (bcs_one _) ?_; intro x5 hh hg hz; have HH := Lib.hid hh; have HG := Lib.hid hg; clear hh hg hz))
  refine bodyPost_ret (results_cell_row rfl _ _ (w.heap.size + 2) 23 (bcs L).toArray _ _ rfl HH.out under23 rfl (by rw [List.size_toArray, bcs_len, HL.out]; exact size23)) rfl ?_
  exact ⟨by rw [HLE.out], HBel.out.grown HG.out HBel.out.size (fun r hr => by injection hr; omega)⟩

theorem Add_list (la lb : List UInt8) (ha : la.length = 32) (hb : lb.length = 32) (w : World) : Calls Try.prog 19 #[.agg (bcs la).toArray, .agg (bcs lb).toArray] w (Gives (vN ((nv la + nv lb) % PP)) w) := by
  have b1 := rdw_bnd la
  have b2 := rdw_bnd lb
  have hv := addk_val (rdw la) (rdw lb) b1.1 b2.1
  refine Add_core la lb (addk (rdw la) (rdw lb) 5) _ w ha hb ?_ ?_ ?_
  · exact Lib.hid fun w' h1 h2 => add_any _ _ _ _ w' h1 h2 (by omega) ⟨b1.1, fun i hi => Nat.lt_of_lt_of_le (b1.2 i hi) (by decide)⟩ ⟨b2.1, fun i hi => Nat.lt_of_lt_of_le (b2.2 i hi) (by decide)⟩
  · refine ⟨?_, fun i hi => ?_⟩
    · have : ∀ n, (addk (rdw la) (rdw lb) n).length = 5 := by
        intro n
        induction n with
        | zero => exact b1.1
        | succ n ih => unfold addk; rw [List.length_set]; exact ih
      exact this 5
    · rw [hv.2 i hi]
      have := b1.2 i hi
      have := b2.2 i hi
      omega
  · rw [hv.1, rdw_val, rdw_val]
    rfl


set_option maxHeartbeats 1000000 in
theorem Sub_core (la lb : List UInt8) (r : List Nat) (n : Nat) (w : World) (ha : Hid (la.length = 32)) (hb : Hid (lb.length = 32))
    (HR : Hid (∀ w', WAt w' (w.heap.size + 3) (rdw la) → WAt w' (w.heap.size + 4) (rdw lb) → Calls Try.prog 72 #[.pointer (some ⟨w.heap.size + 3, 0, none⟩), .pointer (some ⟨w.heap.size + 4, 0, none⟩)] w' (Sets (w.heap.size + 3) r w')))
    (HB : Hid (Bnd 9223372036854775808 r)) (HV : Hid (val5 r % 57896044618658097711785492504343953926634992332820282019728792003956564819949 = n)) :
    Calls Try.prog 21 #[.agg (bcs la).toArray, .agg (bcs lb).toArray] w (Gives (vN n) w) := by
  go_enter Try.func21, Try.ntmps21
  go_wp2_with (first | ((with_reducible show wpList _ _ _ (⟨some 2, .box 23 (.tmp 0), _, _, _, _⟩ :: _) _ _); go_must (refine wpList_box_row rfl 23 (.tmp 0) rfl (bcs la).toArray rfl ?_; intro w1 h1 z1 g1; have H1 := Lib.hid h1; have Z1 := Lib.hid z1; have G1 := Lib.hid g1; clear h1 z1 g1)) | ((with_reducible show wpList _ _ _ (⟨some 3, .box 23 (.tmp 1), _, _, _, _⟩ :: _) _ _); go_must (refine wpList_box_row rfl 23 (.tmp 1) rfl (bcs lb).toArray rfl ?_; intro w2 h1 z1 g1; have H2 := Lib.hid h1; have Z2 := Lib.hid z1; have G2 := Lib.hid g1; clear h1 z1 g1)) | (with_reducible refine wpList_alloc_row rfl 23 rfl (.agg (zbs 32)) zero23 ?_; intro w3 h1 z1 g1; have H3 := Lib.hid h1; have Z3 := Lib.hid z1; have G3 := Lib.hid g1; clear h1 z1 g1) | ((with_reducible show wpList _ _ _ (⟨some 5, .alloc 60, _, _, _, _⟩ :: _) _ _); go_must (refine wpList_alloc_row rfl 60 rfl (.agg (zw 5)) zero60 ?_; intro w4 h1 z1 g1; have H4 := Lib.hid h1; have Z4 := Lib.hid z1; have G4 := Lib.hid g1; clear h1 z1 g1)) | ((with_reducible show wpList _ _ _ (⟨some 6, .alloc 60, _, _, _, _⟩ :: _) _ _); go_must (refine wpList_alloc_row rfl 60 rfl (.agg (zw 5)) zero60 ?_; intro w5 h1 z1 g1; have H5 := Lib.hid h1; have Z5 := Lib.hid z1; have G5 := Lib.hid g1; clear h1 z1 g1)))
  have S : Hid (M2 w la lb [0, 0, 0, 0, 0] [0, 0, 0, 0, 0] w5) := M2.start (cs4 := #[]) (cs5 := #[]) ha.out hb.out H1.out Z1.out G1.out H2.out Z2.out G2.out H3.out Z3.out G3.out H4.out Z4.out G4.out H5.out Z5.out G5.out
  rw [show w4.heap.size = w.heap.size + 4 from by rw [Z4.out, Z3.out, Z2.out, Z1.out], show w3.heap.size = w.heap.size + 3 from by rw [Z3.out, Z2.out, Z1.out], show w2.heap.size = w.heap.size + 2 from by rw [Z2.out, Z1.out], show w1.heap.size = w.heap.size + 1 from by rw [Z1.out]]
  clear H1 Z1 G1 H2 Z2 G2 H3 Z3 G3 H4 Z4 G4 H5 Z5 G5 ha hb
  refine (read_any (w.heap.size + 3) w.heap.size _ la _ S.out.v S.out.a).mono ?_
  rintro e x1 ⟨rfl, hr, hk⟩
  have S1 := Lib.hid (S.out.setV hr hk)
  clear hr hk S
  go_wp2_with fail
  refine (read_any (w.heap.size + 4) (w.heap.size + 1) _ lb _ S1.out.u S1.out.b).mono ?_
  rintro e x2 ⟨rfl, hr, hk⟩
  have S2 := Lib.hid (S1.out.setW hr hk)
  clear hr hk S1
  go_wp2_with fail
  refine (HR.out _ S2.out.v S2.out.u).mono ?_
  rintro e x3 ⟨rfl, hr, hk⟩
  have S3 := Lib.hid (S2.out.setV hr hk)
  clear hr hk S2 HR
  go_wp2_with fail
  refine (number_any (w.heap.size + 3) r _ S3.out.v HB.out).mono ?_
  rintro e x4 ⟨rfl, hk⟩
  rw [HV.out]
  have HRow : Hid (x4.heap[w.heap.size + 2]? = some (.cells (zbs 32) 23 (0, 0))) := (hk.block _ (Array.getElem?_eq_some_iff.1 S3.out.r).1 (by show ¬ _ = _; omega)).trans S3.out.r
  have HBel : Hid (Below w.heap.size w x4) := S3.out.bel.trans (hk.below S3.out.bel.size (fun k hlt => by show ¬ _ = _; omega))
  clear hk S3 HV HB
  obtain ⟨L, hL⟩ : ∃ L, L = enc n := ⟨_, rfl⟩
  have HL : Hid (L.length = 32) := by rw [hL]; exact enc_len n
  have HLE : Hid (Value.agg (bcs L).toArray = vN n) := by rw [hL]; rfl
  rw [← hL]
  clear hL
  go_wp2_with ((with_reducible show wpList _ _ _ (⟨none, .store 23 (.tmp 4) (.tmp 10), _, _, _, _⟩ :: _) _ _); go_must (refine wpList_store_all rfl 23 (.tmp 4) (.tmp 10) rfl (w.heap.size + 2) rfl (bcs L).toArray rfl 23 _ HRow.out (by rw [List.size_toArray, bcs_len, HL.out]; exact size23) (by rw [List.size_toArray, bcs_len, HL.out]; rfl) (bcs_one _) ?_; intro x5 hh hg hz; have HH := Lib.hid hh; have HG := Lib.hid hg; clear hh hg hz))
  refine bodyPost_ret (results_cell_row rfl _ _ (w.heap.size + 2) 23 (bcs L).toArray _ _ rfl HH.out under23 rfl (by rw [List.size_toArray, bcs_len, HL.out]; exact size23)) rfl ?_
  exact ⟨by rw [HLE.out], HBel.out.grown HG.out HBel.out.size (fun r hr => by injection hr; omega)⟩

theorem Sub_list (la lb : List UInt8) (ha : la.length = 32) (hb : lb.length = 32) (w : World) : Calls Try.prog 21 #[.agg (bcs la).toArray, .agg (bcs lb).toArray] w (Gives (vN ((nv la + (PP - nv lb % PP)) % PP)) w) := by
  have b1 := rdw_bnd la
  have b2 := rdw_bnd lb
  have b2' : Bnd 9007199254740900 (rdw lb) := ⟨b2.1, fun i hi => Nat.lt_of_lt_of_le (b2.2 i hi) (by decide)⟩
  have hv := subk_val (rdw la) (rdw lb) b1.1 b2'
  refine Sub_core la lb (subk (rdw la) (rdw lb) 5) _ w ha hb ?_ ?_ ?_
  · exact Lib.hid fun w' h1 h2 => sub_any _ _ _ _ w' h1 h2 (by omega) ⟨b1.1, fun i hi => Nat.lt_of_lt_of_le (b1.2 i hi) (by decide)⟩ b2'
  · refine ⟨?_, fun i hi => ?_⟩
    · have : ∀ n, (subk (rdw la) (rdw lb) n).length = 5 := by
        intro n
        induction n with
        | zero => exact b1.1
        | succ n ih => unfold subk; rw [List.length_set]; exact ih
      exact this 5
    · have := hv.2 i hi
      have := b1.2 i hi
      omega
  · have h1 := hv.1
    rw [rdw_val, rdw_val] at h1
    unfold PP
    generalize val5 (subk (rdw la) (rdw lb) 5) = x at *
    generalize nv la = a at *
    generalize nv lb = b at *
    have hd := Nat.div_add_mod b 57896044618658097711785492504343953926634992332820282019728792003956564819949
    have hm := Nat.mod_lt b (show 0 < 57896044618658097711785492504343953926634992332820282019728792003956564819949 by decide)
    generalize b % 57896044618658097711785492504343953926634992332820282019728792003956564819949 = m at *
    generalize b / 57896044618658097711785492504343953926634992332820282019728792003956564819949 = q at *
    exact Lib.hid (by omega)


set_option maxHeartbeats 1000000 in
theorem Mul_core (la lb : List UInt8) (r : List Nat) (n : Nat) (w : World) (ha : Hid (la.length = 32)) (hb : Hid (lb.length = 32))
    (HR : Hid (∀ w', WAt w' (w.heap.size + 3) (rdw la) → WAt w' (w.heap.size + 4) (rdw lb) → Calls Try.prog 74 #[.pointer (some ⟨w.heap.size + 3, 0, none⟩), .pointer (some ⟨w.heap.size + 3, 0, none⟩), .pointer (some ⟨w.heap.size + 4, 0, none⟩)] w' (Sets (w.heap.size + 3) r w')))
    (HB : Hid (Bnd 9223372036854775808 r)) (HV : Hid (val5 r % 57896044618658097711785492504343953926634992332820282019728792003956564819949 = n)) :
    Calls Try.prog 25 #[.agg (bcs la).toArray, .agg (bcs lb).toArray] w (Gives (vN n) w) := by
  go_enter Try.func25, Try.ntmps25
  go_wp2_with (first | ((with_reducible show wpList _ _ _ (⟨some 2, .box 23 (.tmp 0), _, _, _, _⟩ :: _) _ _); go_must (refine wpList_box_row rfl 23 (.tmp 0) rfl (bcs la).toArray rfl ?_; intro w1 h1 z1 g1; have H1 := Lib.hid h1; have Z1 := Lib.hid z1; have G1 := Lib.hid g1; clear h1 z1 g1)) | ((with_reducible show wpList _ _ _ (⟨some 3, .box 23 (.tmp 1), _, _, _, _⟩ :: _) _ _); go_must (refine wpList_box_row rfl 23 (.tmp 1) rfl (bcs lb).toArray rfl ?_; intro w2 h1 z1 g1; have H2 := Lib.hid h1; have Z2 := Lib.hid z1; have G2 := Lib.hid g1; clear h1 z1 g1)) | (with_reducible refine wpList_alloc_row rfl 23 rfl (.agg (zbs 32)) zero23 ?_; intro w3 h1 z1 g1; have H3 := Lib.hid h1; have Z3 := Lib.hid z1; have G3 := Lib.hid g1; clear h1 z1 g1) | ((with_reducible show wpList _ _ _ (⟨some 5, .alloc 60, _, _, _, _⟩ :: _) _ _); go_must (refine wpList_alloc_row rfl 60 rfl (.agg (zw 5)) zero60 ?_; intro w4 h1 z1 g1; have H4 := Lib.hid h1; have Z4 := Lib.hid z1; have G4 := Lib.hid g1; clear h1 z1 g1)) | ((with_reducible show wpList _ _ _ (⟨some 6, .alloc 60, _, _, _, _⟩ :: _) _ _); go_must (refine wpList_alloc_row rfl 60 rfl (.agg (zw 5)) zero60 ?_; intro w5 h1 z1 g1; have H5 := Lib.hid h1; have Z5 := Lib.hid z1; have G5 := Lib.hid g1; clear h1 z1 g1)))
  have S : Hid (M2 w la lb [0, 0, 0, 0, 0] [0, 0, 0, 0, 0] w5) := M2.start (cs4 := #[]) (cs5 := #[]) ha.out hb.out H1.out Z1.out G1.out H2.out Z2.out G2.out H3.out Z3.out G3.out H4.out Z4.out G4.out H5.out Z5.out G5.out
  rw [show w4.heap.size = w.heap.size + 4 from by rw [Z4.out, Z3.out, Z2.out, Z1.out], show w3.heap.size = w.heap.size + 3 from by rw [Z3.out, Z2.out, Z1.out], show w2.heap.size = w.heap.size + 2 from by rw [Z2.out, Z1.out], show w1.heap.size = w.heap.size + 1 from by rw [Z1.out]]
  clear H1 Z1 G1 H2 Z2 G2 H3 Z3 G3 H4 Z4 G4 H5 Z5 G5 ha hb
  refine (read_any (w.heap.size + 3) w.heap.size _ la _ S.out.v S.out.a).mono ?_
  rintro e x1 ⟨rfl, hr, hk⟩
  have S1 := Lib.hid (S.out.setV hr hk)
  clear hr hk S
  go_wp2_with fail
  refine (read_any (w.heap.size + 4) (w.heap.size + 1) _ lb _ S1.out.u S1.out.b).mono ?_
  rintro e x2 ⟨rfl, hr, hk⟩
  have S2 := Lib.hid (S1.out.setW hr hk)
  clear hr hk S1
  go_wp2_with fail
  refine (HR.out _ S2.out.v S2.out.u).mono ?_
  rintro e x3 ⟨rfl, hr, hk⟩
  have S3 := Lib.hid (S2.out.setV hr hk)
  clear hr hk S2 HR
  go_wp2_with fail
  refine (number_any (w.heap.size + 3) r _ S3.out.v HB.out).mono ?_
  rintro e x4 ⟨rfl, hk⟩
  rw [HV.out]
  have HRow : Hid (x4.heap[w.heap.size + 2]? = some (.cells (zbs 32) 23 (0, 0))) := (hk.block _ (Array.getElem?_eq_some_iff.1 S3.out.r).1 (by show ¬ _ = _; omega)).trans S3.out.r
  have HBel : Hid (Below w.heap.size w x4) := S3.out.bel.trans (hk.below S3.out.bel.size (fun k hlt => by show ¬ _ = _; omega))
  clear hk S3 HV HB
  obtain ⟨L, hL⟩ : ∃ L, L = enc n := ⟨_, rfl⟩
  have HL : Hid (L.length = 32) := by rw [hL]; exact enc_len n
  have HLE : Hid (Value.agg (bcs L).toArray = vN n) := by rw [hL]; rfl
  rw [← hL]
  clear hL
  go_wp2_with ((with_reducible show wpList _ _ _ (⟨none, .store 23 (.tmp 4) (.tmp 10), _, _, _, _⟩ :: _) _ _); go_must (refine wpList_store_all rfl 23 (.tmp 4) (.tmp 10) rfl (w.heap.size + 2) rfl (bcs L).toArray rfl 23 _ HRow.out (by rw [List.size_toArray, bcs_len, HL.out]; exact size23) (by rw [List.size_toArray, bcs_len, HL.out]; rfl) (bcs_one _) ?_; intro x5 hh hg hz; have HH := Lib.hid hh; have HG := Lib.hid hg; clear hh hg hz))
  refine bodyPost_ret (results_cell_row rfl _ _ (w.heap.size + 2) 23 (bcs L).toArray _ _ rfl HH.out under23 rfl (by rw [List.size_toArray, bcs_len, HL.out]; exact size23)) rfl ?_
  exact ⟨by rw [HLE.out], HBel.out.grown HG.out HBel.out.size (fun r hr => by injection hr; omega)⟩

theorem Mul_list (la lb : List UInt8) (ha : la.length = 32) (hb : lb.length = 32) (w : World) : Calls Try.prog 25 #[.agg (bcs la).toArray, .agg (bcs lb).toArray] w (Gives (vN (nv la * nv lb % PP)) w) := by
  have b1 := rdw_bnd la
  have b2 := rdw_bnd lb
  obtain ⟨hv, hb'⟩ := mul_val (rdw la) (rdw lb) b1 b2
  refine Mul_core la lb (mulL (rdw la) (rdw lb)) _ w ha hb ?_ ?_ ?_
  · exact Lib.hid fun w' h1 h2 => mul_any _ _ _ _ _ _ w' h1 h1 h2 b1 b2
  · exact ⟨hb'.1, fun i hi => Nat.lt_of_lt_of_le (hb'.2 i hi) (by decide)⟩
  · rw [hv, rdw_val, rdw_val]
    rfl

end Go.Proofs.Ytgdimnbdnepbgaa
