/- A region whose order is drawn: operations whose values stay the same whatever is called later are taken first; the calls come one by one, each from the world as it stands, and each keeps what is old but for some blocks. No statement is proved here. -/
import Derived.Test.YtphalfpmgbmcaaaW
import Derived.OrdersHeld
import Derived.RegionTactic
namespace Go.Proofs.Ytphalfpmgbmcaaa
open Go.RowKit

/-- From w to w' everything old is as it was, but for the blocks of G. -/
structure Keeps (G : Nat → Prop) (w w' : World) : Prop where
  os : w'.os = w.os
  tape : w'.tape = w.tape
  output : w'.output = w.output
  size : w.heap.size ≤ w'.heap.size
  block : ∀ k, k < w.heap.size → ¬ G k → w'.heap[k]? = w.heap[k]?
theorem Keeps.refl (G : Nat → Prop) (w : World) : Keeps G w w := ⟨rfl, rfl, rfl, Nat.le_refl _, fun _ _ _ => rfl⟩
theorem Keeps.trans {G : Nat → Prop} {a b c : World} (h : Keeps G a b) (k : Keeps G b c) : Keeps G a c :=
  ⟨k.os.trans h.os, k.tape.trans h.tape, k.output.trans h.output, Nat.le_trans h.size k.size, fun i hi hg => (k.block i (Nat.lt_of_lt_of_le hi h.size) hg).trans (h.block i hi hg)⟩
theorem Keeps.of_below {G : Nat → Prop} {w w' : World} (h : Below w.heap.size w w') : Keeps G w w' := ⟨h.os, h.tape, h.output, h.size, fun k hk _ => h.block k hk⟩
theorem Keeps.of_grown {G : Nat → Prop} {w w' : World} {row : Option Nat} (h : w.grownBy w' row) (hg : ∀ r, row = some r → G r) : Keeps G w w' :=
  ⟨h.os, h.tape, h.output, h.size, fun k hk hn => h.block k hk (fun e => hn (hg k e.symm))⟩
theorem Keeps.drew (G : Nat → Prop) (w : World) : Keeps G w w.drew := ⟨rfl, rfl, rfl, Nat.le_refl _, fun _ _ _ => rfl⟩
theorem Keeps.drewN (G : Nat → Prop) (w : World) (n : Nat) : Keeps G w (w.drewN n) := ⟨rfl, rfl, rfl, Nat.le_refl _, fun _ _ _ => rfl⟩
theorem Keeps.below {G : Nat → Prop} {w w' : World} (h : Keeps G w w') {B : Nat} (hB : B ≤ w.heap.size) (hG : ∀ k, k < B → ¬ G k) : Below B w w' :=
  ⟨h.os, h.tape, h.output, h.size, fun k hk => h.block k (by omega) (hG k hk)⟩
theorem Keeps.cell {G : Nat → Prop} {w w' : World} (h : Keeps G w w') {b o : Nat} (hb : b < w.heap.size) (hg : ¬ G b) : w'.cell? ⟨b, o, none⟩ = w.cell? ⟨b, o, none⟩ :=
  World.cell?_of_block (a := ⟨b, o, none⟩) (h.block b hb hg)
theorem Src.keeps {G S : Nat → Prop} {w w' : World} {A : Option Addr} {n : Nat} {xs : List Value} (h : Src w S A n xs) (hk : Keeps G w w') (hS : ∀ b, S b → b < w.heap.size ∧ ¬ G b) : Src w' S A n xs :=
  h.keep (fun b _ hb => hk.cell (hS b hb).1 (hS b hb).2) fun _ hb => hb

theorem Src.below' {S : Nat → Prop} {w w' : World} {A : Option Addr} {n B : Nat} {xs : List Value} (h : Src w S A n xs) (hb : Below B w w') (hS : ∀ b, S b → b < B) : Src w' S A n xs :=
  h.keep (fun b o hk => hb.cell (p := ⟨b, o, none⟩) (hS b hk)) fun _ hk => hk
theorem Src.take_b {S : Nat → Prop} {w : World} {A : Option Addr} {n : Nat} {l : List UInt8} (h : Src w S A n (bcs l)) (k : Nat) (hk : k ≤ n) : Src w S A k (bcs (l.take k)) := by
  have := h.take_ k hk
  unfold bcs at this ⊢
  rw [List.map_take]
  exact this

section
variable {P : Program} {ops : Array Oper} {Q : Exit → Act → World → Prop} {md : Region.Mode} {R : World → World → Prop}

/-- Whatever order is picked from here on; each operation leads from a world to one that R says. -/
def wpAnyR (P : Program) (md : Region.Mode) (ops : Array Oper) (Q : Exit → Act → World → Prop) (R : World → World → Prop) : Nat → Array Bool → Act → World → Prop
  | 0, listed, a, w => Region.ready md ops listed = [] ∧ Q .normal a w
  | fuel + 1, listed, a, w =>
    (Region.ready md ops listed = [] → Q .normal a w) ∧
    ∀ i ∈ Region.ready md ops listed, wpOp P ops Q i (fun a' w' => R w w' ∧ wpAnyR P md ops Q R fuel (listed.setIfInBounds i true) a' w') a w

theorem wpAny_of_R : ∀ (fuel : Nat) (listed : Array Bool) (a : Act) (w : World), wpAnyR P md ops Q R fuel listed a w → wpAny P md ops Q fuel listed a w
  | 0, _, _, _, h => h
  | fuel + 1, _, _, _, h => ⟨h.1, fun i hi => wpOp_mono (fun a' w' h' => wpAny_of_R fuel _ a' w' h'.2) (h.2 i hi)⟩

theorem YieldsIf.weak {S S' : World → Prop} {o : Oper} {v : Value} {a : Act} (h : YieldsIf P ops S o v a) (hS : ∀ w, S' w → S w) : YieldsIf P ops S' o v a :=
  h.imp (fun ⟨hw, hv⟩ => ⟨hw, fun w h' => hv w (hS w h')⟩) id

/-- An operation whose value is the same in every world that may come may be taken first. -/
theorem wpAnyR_first (hrefl : ∀ w, R w w) (htrans : ∀ a b c, R a b → R b c → R a c) {i : Nat} {oi : Oper} {v : Value} (hi : ops[i]? = some oi)
    (hsel : ∀ (j : Nat) (o : Oper) cs b, ops[j]? = some o → o.op ≠ .select cs b) (hQ : ∀ c a w, Q (.panic c) (a.put oi.dst v) w → Q (.panic c) a w) :
    ∀ (fuel : Nat) (listed : Array Bool) (a : Act) (w : World),
      (∀ j oj, ops[j]? = some oj → j ≠ i → listed.getD j true = false → (∀ e ∈ oj.after, Region.binds md e = true → e.on ≠ i) → oi.apart ops oj = true) →
      i ∈ Region.ready md ops listed → YieldsIf P ops (R w) oi v a →
      wpAnyR P md ops Q R fuel (listed.setIfInBounds i true) (a.put oi.dst v) w → wpAnyR P md ops Q R (fuel + 1) listed a w := by
  intro fuel
  induction fuel with
  | zero =>
    intro listed a w _ hr hy H
    refine ⟨fun h => (by rw [h] at hr; cases hr), fun j hj => ?_⟩
    by_cases hji : j = i
    · subst hji
      exact hy.wpOp hi (hrefl w) ⟨hrefl w, H⟩
    · have := ready_mono hj hji
      rw [H.1] at this
      cases this
  | succ fuel ih =>
    intro listed a w hfree hr hy H
    refine ⟨fun h => (by rw [h] at hr; cases hr), fun j hj => ?_⟩
    by_cases hji : j = i
    · subst hji
      exact hy.wpOp hi (hrefl w) ⟨hrefl w, H⟩
    · have h1 := H.2 j (ready_mono hj hji)
      obtain ⟨hjun, oj, hoj, hall⟩ := mem_ready.1 hj
      have hnot : ∀ e ∈ oj.after, Region.binds md e = true → e.on ≠ i := fun e he hb heq => by
        have h1 := hall e he hb
        have h0 := (mem_ready.1 hr).1
        rw [heq] at h1
        rcases Nat.lt_or_ge i listed.size with h' | h'
        · simp [h'] at h0 h1
          rw [h0] at h1
          cases h1
        · simp [Array.getElem?_eq_none h'] at h1
      have h2 := wpOp_putIf hoj (hfree j oj hoj hji hjun hnot) (fun cs b => hsel i oi cs b hi) (fun cs b => hsel j oj cs b hoj) hQ hy h1
      have hfree' : ∀ k ok, ops[k]? = some ok → k ≠ i → (listed.setIfInBounds j true).getD k true = false →
          (∀ e ∈ ok.after, Region.binds md e = true → e.on ≠ i) → oi.apart ops ok = true := fun k ok hk hki hun hno => by
        refine hfree k ok hk hki ?_ hno
        by_cases hjk : j = k
        · subst hjk
          exact hjun
        · rw [getD_set_ne true hjk] at hun
          exact hun
      refine wpOp_mono (fun a' w' h3 => ⟨h3.2.1, ih (listed.setIfInBounds j true) a' w' hfree' (ready_mono hr (Ne.symm hji))
        (YieldsIf.weak h3.1 (fun w'' hw'' => htrans _ _ _ h3.2.1 hw'')) ?_⟩) h2
      rw [Array.setIfInBounds_comm _ _ hji]
      exact h3.2.2

variable {G : Nat → Prop} {fuel : Nat} {listed : Array Bool} {a : Act} {w : World}

/-- Number i is taken first; its value is v. -/
theorem anyTake {i : Nat} {oi : Oper} {v : Value} (hi : ops[i]? = some oi) (hs : Region.noSelect ops = true) (hf : Region.free md ops listed i = true) (hr : (Region.ready md ops listed).contains i = true)
    (hQ : ∀ c a w, Q (.panic c) (a.put oi.dst v) w → Q (.panic c) a w) (hw : Region.wanted oi (yielded ops a.tmps) = true) (hv : ∀ w', Keeps G w w' → (execOp a.eval oi).run P w' = .ok (.value v) w')
    (h : wpAnyR P md ops Q (Keeps G) fuel (listed.setIfInBounds i true) (a.put oi.dst v) w) : wpAnyR P md ops Q (Keeps G) (fuel + 1) listed a w :=
  wpAnyR_first (Keeps.refl G) (fun _ _ _ => Keeps.trans) hi (Region.noSelect_spec hs) hQ fuel listed a w (Region.free_spec hi hf) (by simpa using hr) (.inl ⟨hw, hv⟩) h
theorem anyTakeE {i : Nat} {oi : Oper} (hi : ops[i]? = some oi) (hs : Region.noSelect ops = true) (hf : Region.free md ops listed i = true) (hr : (Region.ready md ops listed).contains i = true)
    (hQ : ∀ v c a w, Q (.panic c) (a.put oi.dst v) w → Q (.panic c) a w) (hw : Region.wanted oi (yielded ops a.tmps) = true)
    (h : ∃ v, (∀ w', Keeps G w w' → (execOp a.eval oi).run P w' = .ok (.value v) w') ∧ wpAnyR P md ops Q (Keeps G) fuel (listed.setIfInBounds i true) (a.put oi.dst v) w) : wpAnyR P md ops Q (Keeps G) (fuel + 1) listed a w := by
  obtain ⟨v, hv, h⟩ := h
  exact anyTake hi hs hf hr (hQ v) hw hv h
/-- Number i is not wanted: its guard says no. -/
theorem anySkip {i : Nat} {oi : Oper} (hi : ops[i]? = some oi) (hs : Region.noSelect ops = true) (hf : Region.free md ops listed i = true) (hr : (Region.ready md ops listed).contains i = true)
    (hQ : ∀ c a w, Q (.panic c) (a.put oi.dst undef) w → Q (.panic c) a w) (hw : Region.wanted oi (yielded ops a.tmps) = false)
    (h : wpAnyR P md ops Q (Keeps G) fuel (listed.setIfInBounds i true) (a.put oi.dst undef) w) : wpAnyR P md ops Q (Keeps G) (fuel + 1) listed a w :=
  wpAnyR_first (Keeps.refl G) (fun _ _ _ => Keeps.trans) hi (Region.noSelect_spec hs) hQ fuel listed a w (Region.free_spec hi hf) (by simpa using hr) (.inr ⟨hw, rfl⟩) h
/-- Number i alone may come, and is a call. -/
theorem anyCall {i : Nat} {oi : Oper} {f : FuncId} {args : Array Value} (hi : ops[i]? = some oi) (hr : Region.ready md ops listed = [i]) (hw : Region.wanted oi (yielded ops a.tmps) = true)
    (he : (execOp a.eval oi).run P w = .ok (.enter f args) w)
    (h : Calls P f args w fun e w' => ∃ v, e = .returned v ∧ Keeps G w w' ∧ wpAnyR P md ops Q (Keeps G) fuel (listed.setIfInBounds i true) (a.put oi.dst v) w') : wpAnyR P md ops Q (Keeps G) (fuel + 1) listed a w := by
  refine ⟨fun h0 => (by rw [hr] at h0; cases h0), fun j hj => ?_⟩
  rw [hr] at hj
  obtain rfl : j = i := by simpa using hj
  unfold wpOp
  simp only [hi, hw, if_true]
  refine .inl ?_
  unfold Oper.wp
  rw [he, Oper.upon_enter]
  refine h.mono fun e w' => ?_
  rintro ⟨v, rfl, hk, hx⟩
  exact ⟨hk, hx⟩
/-- Number i alone may come, and changes the world by itself. -/
theorem anyOp {i : Nat} {oi : Oper} (hi : ops[i]? = some oi) (hr : Region.ready md ops listed = [i]) (hw : Region.wanted oi (yielded ops a.tmps) = true)
    (h : oi.wp P a w (fun a' w' => Keeps G w w' ∧ wpAnyR P md ops Q (Keeps G) fuel (listed.setIfInBounds i true) a' w') Q) : wpAnyR P md ops Q (Keeps G) (fuel + 1) listed a w := by
  refine ⟨fun h0 => (by rw [hr] at h0; cases h0), fun j hj => ?_⟩
  rw [hr] at hj
  obtain rfl : j = i := by simpa using hj
  unfold wpOp
  simp only [hi, hw, if_true]
  exact .inl h
theorem anyDone (hr : Region.ready md ops listed = []) (h : Q .normal a w) : ∀ fuel, wpAnyR P md ops Q (Keeps G) fuel listed a w
  | 0 => ⟨hr, h⟩
  | _ + 1 => ⟨fun _ => h, by rw [hr]; simp⟩
/-- A conversion, by its own run. -/
theorem exec_convert {o : Oper} {s d : TypeId} {x : Operand} {v : Value} (ho : o.op = .convert s d x) (h : (convert s d (a.eval x)).run P w = .ok v w) : (execOp a.eval o).run P w = .ok (.value v) w := by
  unfold execOp
  simp [ho, h]
/-- append, as one operation. -/
theorem wp_app {o : Oper} {K : Act → World → Prop} (s x : Operand) (t : TypeId) (ho : o.op = .call { callee := .builtin .append, args := #[s, x], argTypes := #[t, t] })
    (base : Nat) (e : TypeId) (i : TypeInfo) (z : Value) (bytes : Nat) (ht : P.underlying t = some (.slice e)) (hi : P.info? e = some i) (hz : i.zero = some z)
    (hsize : i.size = 1) (hby : i.bytes = bytes) (hzs : z.cells.size = 1) (v : Value) (n : Nat) (xs : List Value) (hv : a.eval s = v) (hown : w.ownsRow base e 1 v n xs)
    (S : Nat → Prop) (A : Option Addr) (m c : Nat) (ys : List Value) (hx : a.eval x = .slice A m c) (hs : Src w S A m ys) (h1 : ∀ u ∈ ys, u.oneCell' = true)
    (h63 : n + m ≤ maxLen) (hbytes : (n + m) * bytes ≤ 140737488355328) (hbase : base ≤ w.heap.size)
    (h : ∀ v' w', w'.ownsRow base e 1 v' (n + m) (xs ++ ys) → w.grownBy w' v.ownBlock → K (a.put o.dst v') w') : o.wp P a w K Q := by
  obtain ⟨v', w', hrun, h2, h3, h4⟩ := run_app (P := P) w base t o.type e i z bytes ht hi hz hsize hby hzs v n xs hown S A m c ys hs h1 h63 hbytes hbase
  unfold Oper.wp execOp
  simp only [ho, resolve, invoke, builtin, Sem.run_bind, Sem.run_pure, Result.andThen_ok, List.map_toArray, List.map_cons, List.map_nil, hv, hx, hrun]
  exact h v' w' h2 h3
/-- A whole array loaded. -/
theorem exec_load {o : Oper} (ty : TypeId) (x : Operand) (ho : o.op = .load ty x) (b off : Nat) (hx : a.eval x = .pointer (some ⟨b, off, none⟩))
    (xs : List Value) (hc : ∀ i u, xs[i]? = some u → w.cell? ⟨b, off + i, none⟩ = some u) (d : TypeDesc) (hu : P.underlying ty = some d) (hd : (match d with | .struct _ | .array _ _ => true | _ => false) = true)
    (hi : (P.info? ty).map (·.size) = some xs.length) : (execOp a.eval o).run P w = .ok (.value (.agg xs.toArray)) w := by
  cases hq : P.info? ty with
  | none => simp [hq] at hi
  | some i =>
    have hs : i.size = xs.length := by simpa [hq] using hi
    have hl : (loadCells ⟨b, off, none⟩ xs.length).run P w = .ok xs.toArray w :=
      run_loadCells_list (P := P) w ⟨b, off, none⟩ xs (fun j v hv => by
        have hadd : (⟨b, off, none⟩ : Addr).add j = ⟨b, off + j, none⟩ := by unfold Addr.add; split <;> simp_all
        rw [hadd]
        exact hc j v hv)
    have hagg : (isAgg ty).run P w = .ok true w := by
      unfold isAgg
      rw [Sem.run_bind, run_underlying hu w]
      cases d <;> simp_all
    have hrun : (Instr.loadAt ty (.pointer (some ⟨b, off, none⟩))).run P w = .ok (.agg xs.toArray) w := by
      simp [Instr.loadAt, Instr.sureAddr, loadVar, Sem.run_bind, hagg, sizeOf, typeInfo, hq, hs, hl]
    unfold execOp
    simp only [ho, hx, Sem.run_bind, Sem.run_pure, Result.andThen_ok, hrun]
/-- The beginning. -/
theorem anyStart (G : Nat → Prop) {id : Nat} (hm : P.follows .mixedOrders = true) (h : wpAnyR P .any ops Q (Keeps G) ops.size (Array.replicate ops.size false) a w.drew) : (Code.region id ops true).wp P Q a w :=
  wp_region_any hm (wpAny_of_R _ _ _ _ h)
end
end Go.Proofs.Ytphalfpmgbmcaaa
