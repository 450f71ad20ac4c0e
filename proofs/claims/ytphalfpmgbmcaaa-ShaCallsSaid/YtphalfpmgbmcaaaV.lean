/- A region whose order is drawn, in which only some operations (the stores) change what is old: whatever these wait for may be taken first. No statement is proved here. -/
import Derived.Test.YtphalfpmgbmcaaaH
namespace Go.Proofs.Ytphalfpmgbmcaaa
open Go.RowKit
set_option linter.unusedVariables false

section
variable {P : Program} {ops : Array Oper} {Q : Exit → Act → World → Prop} {md : Region.Mode} {W : Nat → Bool} {lo : Nat}

/-- Does number j wait for number i itself? -/
def waits (md : Region.Mode) (ops : Array Oper) (j i : Nat) : Bool :=
  match ops[j]? with
  | some oj => oj.after.toList.any fun e => Region.binds md e && (e.on == i)
  | none => false
theorem waits_not {j i : Nat} {oj : Oper} {listed : Array Bool} (hj : ops[j]? = some oj) (hw : waits md ops j i = true) (hr : j ∈ Region.ready md ops listed) (hi : i ∈ Region.ready md ops listed) : False := by
  obtain ⟨_, o', ho', hall⟩ := mem_ready.1 hr
  obtain rfl : oj = o' := Option.some.inj (hj.symm.trans ho')
  unfold waits at hw
  simp only [hj] at hw
  obtain ⟨e, he, hb⟩ := List.any_eq_true.1 hw
  simp only [Bool.and_eq_true, beq_iff_eq] at hb
  have h1 := hall e (by simpa using he) hb.1
  have h0 := (mem_ready.1 hi).1
  rw [hb.2] at h1
  rcases Nat.lt_or_ge i listed.size with h' | h'
  · simp [h'] at h0 h1
    rw [h0] at h1
    cases h1
  · simp [Array.getElem?_eq_none h'] at h1

/-- Whatever order is picked from here on; an operation outside W leaves all that is old as it was. -/
def wpAnyW (P : Program) (md : Region.Mode) (ops : Array Oper) (Q : Exit → Act → World → Prop) (W : Nat → Bool) (lo : Nat) : Nat → Array Bool → Act → World → Prop
  | 0, listed, a, w => Region.ready md ops listed = [] ∧ Q .normal a w
  | fuel + 1, listed, a, w =>
    (Region.ready md ops listed = [] → Q .normal a w) ∧
    ∀ i ∈ Region.ready md ops listed, wpOp P ops Q i (fun a' w' => (W i = false → Below lo w w') ∧ wpAnyW P md ops Q W lo fuel (listed.setIfInBounds i true) a' w') a w

theorem wpAny_of_W : ∀ (fuel : Nat) (listed : Array Bool) (a : Act) (w : World), wpAnyW P md ops Q W lo fuel listed a w → wpAny P md ops Q fuel listed a w
  | 0, _, _, _, h => h
  | fuel + 1, _, _, _, h => ⟨h.1, fun i hi => wpOp_mono (fun a' w' h' => wpAny_of_W fuel _ a' w' h'.2) (h.2 i hi)⟩

theorem wpAnyW_first {i : Nat} {oi : Oper} {v : Value} (hi : ops[i]? = some oi) (hWi : W i = false) (hW : ∀ j oj, ops[j]? = some oj → W j = true → waits md ops j i = true)
    (hsel : ∀ (j : Nat) (o : Oper) cs b, ops[j]? = some o → o.op ≠ .select cs b) (hQ : ∀ c a w, Q (.panic c) (a.put oi.dst v) w → Q (.panic c) a w) :
    ∀ (fuel : Nat) (listed : Array Bool) (a : Act) (w : World),
      (∀ j oj, ops[j]? = some oj → j ≠ i → listed.getD j true = false → (∀ e ∈ oj.after, Region.binds md e = true → e.on ≠ i) → oi.apart ops oj = true) →
      i ∈ Region.ready md ops listed → YieldsIf P ops (fun w' => Below lo w w') oi v a →
      wpAnyW P md ops Q W lo fuel (listed.setIfInBounds i true) (a.put oi.dst v) w → wpAnyW P md ops Q W lo (fuel + 1) listed a w := by
  intro fuel
  induction fuel with
  | zero =>
    intro listed a w _ hr hy H
    refine ⟨fun h => (by rw [h] at hr; cases hr), fun j hj => ?_⟩
    by_cases hji : j = i
    · subst hji
      exact hy.wpOp hi (Below.refl _ w) ⟨fun _ => Below.refl _ w, H⟩
    · have := ready_mono hj hji
      rw [H.1] at this
      cases this
  | succ fuel ih =>
    intro listed a w hfree hr hy H
    refine ⟨fun h => (by rw [h] at hr; cases hr), fun j hj => ?_⟩
    by_cases hji : j = i
    · subst hji
      exact hy.wpOp hi (Below.refl _ w) ⟨fun _ => Below.refl _ w, H⟩
    · have h1 := H.2 j (ready_mono hj hji)
      obtain ⟨hjun, oj, hoj, hall⟩ := mem_ready.1 hj
      have hWj : W j = false := by
        cases hw : W j with
        | false => rfl
        | true => exact absurd (waits_not hoj (hW j oj hoj hw) hj hr) id
      have hnot : ∀ e ∈ oj.after, Region.binds md e = true → e.on ≠ i := fun e he hb heq => by
        have h1 := hall e he hb
        have h0 := (mem_ready.1 hr).1
        rw [heq] at h1
        rcases Nat.lt_or_ge i listed.size with h' | h'
        · simp [h'] at h0 h1
          rw [h0] at h1
          cases h1
        · simp [Array.getElem?_eq_none h'] at h1
      have h2 := wpOp_putIf hoj (hfree j oj hoj hji hjun hnot) (fun cs b => hsel i oi cs b hi) (fun cs b => hsel j oj cs b hoj) hQ hy h1
      have hfree' : ∀ k ok, ops[k]? = some ok → k ≠ i → (listed.setIfInBounds j true).getD k true = false →
          (∀ e ∈ ok.after, Region.binds md e = true → e.on ≠ i) → oi.apart ops ok = true := fun k ok hk hki hun hno => by
        refine hfree k ok hk hki ?_ hno
        by_cases hjk : j = k
        · subst hjk
          exact hjun
        · rw [getD_set_ne true hjk] at hun
          exact hun
      refine wpOp_mono (fun a' w' h3 => ⟨h3.2.1, ih (listed.setIfInBounds j true) a' w' hfree' (ready_mono hr (Ne.symm hji))
        (YieldsIf.weak h3.1 (fun w'' hw'' => (h3.2.1 hWj).trans hw'')) ?_⟩) h2
      rw [Array.setIfInBounds_comm _ _ hji]
      exact h3.2.2

theorem wpAnyW_firstA {i : Nat} {oi : Oper} {v : Value} (hi : ops[i]? = some oi) (hsel : ∀ (j : Nat) (o : Oper) cs b, ops[j]? = some o → o.op ≠ .select cs b) (hQ : ∀ c a w, Q (.panic c) (a.put oi.dst v) w → Q (.panic c) a w) :
    ∀ (fuel : Nat) (listed : Array Bool) (a : Act) (w : World),
      (∀ j oj, ops[j]? = some oj → j ≠ i → listed.getD j true = false → (∀ e ∈ oj.after, Region.binds md e = true → e.on ≠ i) → oi.apart ops oj = true) →
      i ∈ Region.ready md ops listed → YieldsIf P ops (fun _ => True) oi v a →
      wpAnyW P md ops Q W lo fuel (listed.setIfInBounds i true) (a.put oi.dst v) w → wpAnyW P md ops Q W lo (fuel + 1) listed a w := by
  intro fuel
  induction fuel with
  | zero =>
    intro listed a w _ hr hy H
    refine ⟨fun h => (by rw [h] at hr; cases hr), fun j hj => ?_⟩
    by_cases hji : j = i
    · subst hji
      exact hy.wpOp hi trivial ⟨fun _ => Below.refl _ w, H⟩
    · have := ready_mono hj hji
      rw [H.1] at this
      cases this
  | succ fuel ih =>
    intro listed a w hfree hr hy H
    refine ⟨fun h => (by rw [h] at hr; cases hr), fun j hj => ?_⟩
    by_cases hji : j = i
    · subst hji
      exact hy.wpOp hi trivial ⟨fun _ => Below.refl _ w, H⟩
    · have h1 := H.2 j (ready_mono hj hji)
      obtain ⟨hjun, oj, hoj, hall⟩ := mem_ready.1 hj
      have hnot : ∀ e ∈ oj.after, Region.binds md e = true → e.on ≠ i := fun e he hb heq => by
        have h1 := hall e he hb
        have h0 := (mem_ready.1 hr).1
        rw [heq] at h1
        rcases Nat.lt_or_ge i listed.size with h' | h'
        · simp [h'] at h0 h1
          rw [h0] at h1
          cases h1
        · simp [Array.getElem?_eq_none h'] at h1
      have h2 := wpOp_putIf hoj (hfree j oj hoj hji hjun hnot) (fun cs b => hsel i oi cs b hi) (fun cs b => hsel j oj cs b hoj) hQ hy h1
      have hfree' : ∀ k ok, ops[k]? = some ok → k ≠ i → (listed.setIfInBounds j true).getD k true = false →
          (∀ e ∈ ok.after, Region.binds md e = true → e.on ≠ i) → oi.apart ops ok = true := fun k ok hk hki hun hno => by
        refine hfree k ok hk hki ?_ hno
        by_cases hjk : j = k
        · subst hjk
          exact hjun
        · rw [getD_set_ne true hjk] at hun
          exact hun
      refine wpOp_mono (fun a' w' h3 => ⟨h3.2.1, ih (listed.setIfInBounds j true) a' w' hfree' (ready_mono hr (Ne.symm hji))
        h3.1 ?_⟩) h2
      rw [Array.setIfInBounds_comm _ _ hji]
      exact h3.2.2

variable {fuel : Nat} {listed : Array Bool} {a : Act} {w : World}
/-- The operations of W all wait for number i. -/
def allWait (md : Region.Mode) (ops : Array Oper) (W : Nat → Bool) (i : Nat) : Bool := !W i && (List.range ops.size).all fun j => !W j || waits md ops j i
theorem allWait_spec {i : Nat} (h : allWait md ops W i = true) : W i = false ∧ ∀ j oj, ops[j]? = some oj → W j = true → waits md ops j i = true := by
  simp only [allWait, Bool.and_eq_true, Bool.not_eq_true'] at h
  refine ⟨h.1, fun j oj hj hw => ?_⟩
  have := List.all_eq_true.1 h.2 j (List.mem_range.2 (Array.getElem?_eq_some_iff.1 hj).1)
  simpa [hw] using this

theorem takeW {i : Nat} {oi : Oper} (v : Value) (hi : ops[i]? = some oi) (ha : allWait md ops W i = true) (hs : Region.noSelect ops = true) (hf : Region.free md ops listed i = true) (hr : (Region.ready md ops listed).contains i = true)
    (hQ : ∀ c a w, Q (.panic c) (a.put oi.dst v) w → Q (.panic c) a w) (hw : Region.wanted oi (yielded ops a.tmps) = true) (hv : ∀ w', Below lo w w' → (execOp a.eval oi).run P w' = .ok (.value v) w')
    (h : wpAnyW P md ops Q W lo fuel (listed.setIfInBounds i true) (a.put oi.dst v) w) : wpAnyW P md ops Q W lo (fuel + 1) listed a w :=
  wpAnyW_first hi (allWait_spec ha).1 (allWait_spec ha).2 (Region.noSelect_spec hs) hQ fuel listed a w (Region.free_spec hi hf) (by simpa using hr) (.inl ⟨hw, hv⟩) h
theorem takeWE {i : Nat} {oi : Oper} (hi : ops[i]? = some oi) (ha : allWait md ops W i = true) (hs : Region.noSelect ops = true) (hf : Region.free md ops listed i = true) (hr : (Region.ready md ops listed).contains i = true)
    (hQ : ∀ v c a w, Q (.panic c) (a.put oi.dst v) w → Q (.panic c) a w) (hw : Region.wanted oi (yielded ops a.tmps) = true)
    (h : ∃ v, (∀ w', Below lo w w' → (execOp a.eval oi).run P w' = .ok (.value v) w') ∧ wpAnyW P md ops Q W lo fuel (listed.setIfInBounds i true) (a.put oi.dst v) w) : wpAnyW P md ops Q W lo (fuel + 1) listed a w := by
  obtain ⟨v, hv, h⟩ := h
  exact takeW v hi ha hs hf hr (hQ v) hw hv h
/-- A value that hangs on no memory. -/
theorem takeAE {i : Nat} {oi : Oper} (hi : ops[i]? = some oi) (hs : Region.noSelect ops = true) (hf : Region.free md ops listed i = true) (hr : (Region.ready md ops listed).contains i = true)
    (hQ : ∀ v c a w, Q (.panic c) (a.put oi.dst v) w → Q (.panic c) a w) (hw : Region.wanted oi (yielded ops a.tmps) = true)
    (h : ∃ v, (∀ w', (execOp a.eval oi).run P w' = .ok (.value v) w') ∧ wpAnyW P md ops Q W lo fuel (listed.setIfInBounds i true) (a.put oi.dst v) w) : wpAnyW P md ops Q W lo (fuel + 1) listed a w := by
  obtain ⟨v, hv, h⟩ := h
  exact wpAnyW_firstA hi (Region.noSelect_spec hs) (hQ v) fuel listed a w (Region.free_spec hi hf) (by simpa using hr) (.inl ⟨hw, fun w' _ => hv w'⟩) h
/-- Number i alone may come, and is a call. -/
theorem callW {i : Nat} {oi : Oper} {f : FuncId} {args : Array Value} (hi : ops[i]? = some oi) (hr : Region.ready md ops listed = [i]) (hw : Region.wanted oi (yielded ops a.tmps) = true)
    (he : (execOp a.eval oi).run P w = .ok (.enter f args) w)
    (h : Calls P f args w fun e w' => ∃ v, e = .returned v ∧ (W i = false → Below lo w w') ∧ wpAnyW P md ops Q W lo fuel (listed.setIfInBounds i true) (a.put oi.dst v) w') : wpAnyW P md ops Q W lo (fuel + 1) listed a w := by
  refine ⟨fun h0 => (by rw [hr] at h0; cases h0), fun j hj => ?_⟩
  rw [hr] at hj
  obtain rfl : j = i := by simpa using hj
  exact wpOp_call hi hw he h
/-- Number i alone may come, and yields a value. -/
theorem opW {i : Nat} {oi : Oper} (v : Value) (w' : World) (hi : ops[i]? = some oi) (hr : Region.ready md ops listed = [i]) (hw : Region.wanted oi (yielded ops a.tmps) = true)
    (he : (execOp a.eval oi).run P w = .ok (.value v) w') (hb : W i = false → Below lo w w') (h : wpAnyW P md ops Q W lo fuel (listed.setIfInBounds i true) (a.put oi.dst v) w') : wpAnyW P md ops Q W lo (fuel + 1) listed a w := by
  refine ⟨fun h0 => (by rw [hr] at h0; cases h0), fun j hj => ?_⟩
  rw [hr] at hj
  obtain rfl : j = i := by simpa using hj
  exact wpOp_value hi hw he ⟨hb, h⟩
/-- Number i alone may come, and stores. -/
theorem storeW {i : Nat} {oi : Oper} (w' : World) (hi : ops[i]? = some oi) (hr : Region.ready md ops listed = [i]) (hw : Region.wanted oi (yielded ops a.tmps) = true)
    (he : (execOp a.eval oi).run P w = .ok .skip w') (hb : W i = false → Below lo w w') (h : wpAnyW P md ops Q W lo fuel (listed.setIfInBounds i true) (a.put oi.dst undef) w') : wpAnyW P md ops Q W lo (fuel + 1) listed a w := by
  refine ⟨fun h0 => (by rw [hr] at h0; cases h0), fun j hj => ?_⟩
  rw [hr] at hj
  obtain rfl : j = i := by simpa using hj
  unfold wpOp
  simp only [hi, hw, if_true]
  refine .inl ?_
  unfold Oper.wp
  rw [he]
  exact ⟨hb, h⟩
theorem storeW_all {i : Nat} {oi : Oper} (hi : ops[i]? = some oi) (hr : Region.ready md ops listed = [i]) (hw : Region.wanted oi (yielded ops a.tmps) = true)
    (ty : TypeId) (p x : Operand) (ho : oi.op = .store ty p x) (g : Nat) (hp : a.eval p = .pointer (some ⟨g, 0, none⟩)) (cs : Array Value) (hx : a.eval x = .agg cs)
    (t : TypeId) (cur : Array Value) (hg : w.heap[g]? = some (.cells cur t (0, 0))) (hsz : (P.info? ty).map (·.size) = some cs.size) (hfit : cs.size = cur.size) (h1 : ∀ u ∈ cs.toList, u.oneCell' = true) (hW : W i = true)
    (h : ∀ w', w'.heap[g]? = some (.cells cs t (0, 0)) → w.grownBy w' (some g) → w'.heap.size = w.heap.size → wpAnyW P md ops Q W lo fuel (listed.setIfInBounds i true) (a.put oi.dst undef) w') : wpAnyW P md ops Q W lo (fuel + 1) listed a w := by
  obtain ⟨w', h2, h3, h4, h5⟩ := exec_store_all (P := P) (a := a) (w := w) (o := oi) ty p x ho g hp cs hx t cur hg hsz hfit h1
  exact storeW w' hi hr hw h2 (fun h => by rw [hW] at h; cases h) (h w' h3 h4 h5)
/-- Number i alone may come, and is an append. -/
theorem appW {lo : Nat} {Q : Exit → Act → World → Prop} {fuel : Nat} {listed : Array Bool} {a : Act} {w : World} {i : Nat} {oi : Oper} (hi : ops[i]? = some oi) (hr : Region.ready md ops listed = [i]) (hw : Region.wanted oi (yielded ops a.tmps) = true) (s x : Operand) (ho : oi.op = .call { callee := .builtin .append, args := #[s, x], argTypes := #[30, 30] })
    (v : Value) (l : List UInt8) (hv : a.eval s = v) (hown : OwnB w lo v l) (S : Nat → Prop) (A : Option Addr) (m c : Nat) (ys : List UInt8) (hx : a.eval x = .slice A m c) (hs : Src w S A m (bcs ys))
    (hb : l.length + m ≤ 1099511627776) (hB : lo ≤ w.heap.size)
    (h : ∀ v' w', OwnB w' lo v' (l ++ ys) → Below lo w w' → wpAnyW Try.prog md ops Q W lo fuel (listed.setIfInBounds i true) (a.put oi.dst v') w') : wpAnyW Try.prog md ops Q W lo (fuel + 1) listed a w := by
  obtain ⟨v', w', hr', h1, h2⟩ := run_appB w lo v l oi.type hown S A m c ys hs hb hB
  refine opW v' w' hi hr hw ?_ (fun _ => h2) (h v' w' h1 h2)
  unfold execOp
  simp only [ho, resolve, invoke, builtin, Sem.run_bind, Sem.run_pure, Result.andThen_ok, List.map_toArray, List.map_cons, List.map_nil, hv, hx, hr']
theorem doneW (hr : Region.ready md ops listed = []) (h : Q .normal a w) : ∀ fuel, wpAnyW P md ops Q W lo fuel listed a w
  | 0 => ⟨hr, h⟩
  | _ + 1 => ⟨fun _ => h, by rw [hr]; simp⟩
theorem startW (W : Nat → Bool) (lo : Nat) {id : Nat} (hm : P.follows .mixedOrders = true) (h : wpAnyW P .any ops Q W lo ops.size (Array.replicate ops.size false) a w.drew) : (Code.region id ops true).wp P Q a w :=
  wp_region_any hm (wpAny_of_W _ _ _ _ h)
end
end Go.Proofs.Ytphalfpmgbmcaaa
