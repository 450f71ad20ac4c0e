/- Regions that draw their order, by an invariant: each operation is looked at once, whatever the order; what is known of the operations done is the invariant's own. No statement is proved here. -/
import Derived.Test.YtkglicidjdifkaaRC
namespace Go.Proofs.Ytkglicidjdifkaa.RQ
open Go.RowKit
set_option linter.unusedVariables false
set_option linter.unusedSimpArgs false
def dof (l : List Oper) (i : Nat) : Option Nat := (l[i]?).bind (·.dst)
def dep (l : List Oper) (i j : Nat) : Bool :=
  match l[i]? with
  | some o => o.after.toList.any fun e => Region.binds .any e && (e.on == j)
  | none => false
def fresh (l : List Oper) (d : Nat) : Bool := l.all fun o => !(o.dst == some d)
theorem put_defers (a : Act) (o : Option Nat) (v : Value) : (a.put o v).defers = a.defers := by cases o <;> rfl
theorem put_size (a : Act) (o : Option Nat) (v : Value) : (a.put o v).tmps.size = a.tmps.size := by
  cases o with
  | none => rfl
  | some d => exact Array.size_setIfInBounds ..
theorem put_get (a : Act) (d : Nat) (v : Value) (h : d < a.tmps.size) : (a.put (some d) v).tmps[d]? = some v := by
  show (a.tmps.setIfInBounds d v)[d]? = some v
  simp [h]
theorem put_other (a : Act) (o : Option Nat) (e : Nat) (v : Value) (h : o ≠ some e) : (a.put o v).tmps[e]? = a.tmps[e]? := by
  cases o with
  | none => rfl
  | some d =>
    show (a.tmps.setIfInBounds d v)[e]? = a.tmps[e]?
    exact Array.getElem?_setIfInBounds_ne (fun h' => h (by rw [h']))
/-- The state when the operations of L are done. -/
def up (L : Nat → Bool) (i : Nat) : Nat → Bool := fun j => j == i || L j
theorem up_self (L : Nat → Bool) (i : Nat) : up L i i = true := by simp [up]
theorem up_of {L : Nat → Bool} {i j : Nat} (h : L j = true) : up L i j = true := by simp [up, h]
theorem up_cases {L : Nat → Bool} {i j : Nat} (h : up L i j = true) : j = i ∨ (j ≠ i ∧ L j = true) := by
  unfold up at h
  by_cases e : j = i
  · exact .inl e
  · exact .inr ⟨e, by simpa [e] using h⟩

def chk (l : List Oper) (nt : Nat) : Bool :=
  (List.range l.length).all fun i => match l[i]? with
    | some o => o.guard.isNone && (o.after.toList.all fun e => !Region.binds .any e || decide (e.on < i)) && (match o.dst with | some d => decide (d < nt) && ((List.range l.length).all fun j => j == i || !(dof l j == some d)) | none => true)
    | none => true

section
variable {P : Program} {l : List Oper} {a0 a : Act} {w w' : World} {i nt : Nat}
theorem chk_at (h : chk l nt = true) {o : Oper} (ho : l[i]? = some o) : o.guard = none ∧ (∀ e ∈ o.after, Region.binds .any e = true → e.on < i) ∧ (∀ d, o.dst = some d → d < nt ∧ ∀ j, j ≠ i → dof l j ≠ some d) := by
  have hi : i < l.length := (List.getElem?_eq_some_iff.1 ho).1
  have h1 := List.all_eq_true.1 h i (List.mem_range.2 hi)
  simp only [ho, Bool.and_eq_true] at h1
  obtain ⟨⟨hg, he⟩, hd⟩ := h1
  refine ⟨Option.isNone_iff_eq_none.1 hg, fun e hm hb => ?_, fun d hd' => ?_⟩
  · have := List.all_eq_true.1 he e (Array.mem_toList_iff.2 hm)
    simpa [hb] using this
  · rw [hd'] at hd
    simp only [Bool.and_eq_true, decide_eq_true_eq] at hd
    refine ⟨hd.1, fun j hj e => ?_⟩
    have hjl : j < l.length := by
      unfold dof at e
      cases hq : l[j]? with
      | none => rw [hq] at e; cases e
      | some q => exact (List.getElem?_eq_some_iff.1 hq).1
    have := List.all_eq_true.1 hd.2 j (List.mem_range.2 hjl)
    simp [hj, e] at this
theorem dep_of {o : Oper} (ho : l[i]? = some o) {j : Nat} (h : dep l i j = true) : ∃ e ∈ o.after, Region.binds .any e = true ∧ e.on = j := by
  unfold dep at h
  rw [ho] at h
  obtain ⟨e, he, hb⟩ := List.any_eq_true.1 h
  simp only [Bool.and_eq_true, beq_iff_eq] at hb
  exact ⟨e, Array.mem_toList_iff.1 he, hb.1, hb.2⟩
theorem eval_get {v : Value} (h : a.tmps[i]? = some v) : a.eval (.tmp i) = v := by
  show a.tmps.getD i undef = v
  rw [Array.getD_eq_getD_getElem?, h]
  rfl
theorem eval_same {d : Nat} (h : a.tmps[d]? = a0.tmps[d]?) : a.eval (.tmp d) = a0.eval (.tmp d) := by
  show a.tmps.getD d undef = a0.tmps.getD d undef
  rw [Array.getD_eq_getD_getElem?, Array.getD_eq_getD_getElem?, h]

end
def Lof (listed : Array Bool) : Nat → Bool := fun i => listed.getD i false
theorem Lof_set {listed : Array Bool} {i : Nat} (h : i < listed.size) : Lof (listed.setIfInBounds i true) = up (Lof listed) i := by
  funext j
  unfold Lof up
  by_cases e : j = i
  · subst e; simp [h]
  · rw [getD_set_ne false (Ne.symm e)]; simp [e]
theorem count_set {listed : Array Bool} {i : Nat} (h : i < listed.size) (hf : listed.getD i false = false) : (listed.setIfInBounds i true).toList.count false + 1 = listed.toList.count false := by
  have h1 : listed.toList[i]'(by simpa using h) = false := by simpa [h] using hf
  have h2 : 0 < listed.toList.count false := List.count_pos_iff.2 (by rw [← h1]; exact List.getElem_mem _)
  rw [Array.toList_setIfInBounds, List.count_set (by simpa using h), h1, if_pos (show (false == false) = true from rfl), if_neg (show ¬ (true == false) = true by decide)]
  omega
theorem count_unlisted {listed : Array Bool} {i : Nat} (h : i < listed.size) (hf : listed.getD i false = false) : 0 < listed.toList.count false := by
  have := count_set h hf
  omega
theorem least {m : Nat} {p : Nat → Bool} (h : ¬ ∀ i, i < m → p i = true) : ∃ i, i < m ∧ p i = false ∧ ∀ j, j < i → p j = true := by
  induction m with
  | zero => exact absurd (fun i hi => absurd hi (Nat.not_lt_zero i)) h
  | succ m ih =>
    by_cases hm : ∀ i, i < m → p i = true
    · refine ⟨m, Nat.lt_succ_self m, ?_, hm⟩
      cases hq : p m with
      | false => rfl
      | true =>
        refine absurd (fun i hi => ?_) h
        by_cases e : i = m
        · rw [e]; exact hq
        · exact hm i (by omega)
    · obtain ⟨i, h1, h2, h3⟩ := ih hm
      exact ⟨i, by omega, h2, h3⟩

/-- The values of the operations done. -/
def uv (vs : Nat → Value) (i : Nat) (v : Value) : Nat → Value := fun j => if j = i then v else vs j
theorem uv_self (vs : Nat → Value) (i : Nat) (v : Value) : uv vs i v i = v := if_pos rfl
theorem uv_ne {vs : Nat → Value} {i j : Nat} (v : Value) (h : j ≠ i) : uv vs i v j = vs j := if_neg h
/-- The state when the operations of L are done. -/
structure St (l : List Oper) (a0 : Act) (F : (Nat → Bool) → (Nat → Value) → World → Prop) (L : Nat → Bool) (vs : Nat → Value) (a : Act) (w : World) : Prop where
  df : a.defers = a0.defers
  sz : a.tmps.size = a0.tmps.size
  on : ∀ i d, L i = true → dof l i = some d → a.tmps[d]? = some (vs i)
  off : ∀ d, (∀ i, L i = true → dof l i ≠ some d) → a.tmps[d]? = a0.tmps[d]?
  inv : F L vs w
  dc : ∀ i j, L i = true → dep l i j = true → L j = true
/-- What an operation may take for granted of the slots. -/
def Dp (l : List Oper) (a0 : Act) (vs : Nat → Value) (i : Nat) (a : Act) : Prop :=
  (∀ j d, dep l i j = true → dof l j = some d → a.eval (.tmp d) = vs j) ∧ (∀ d, fresh l d = true → a.eval (.tmp d) = a0.eval (.tmp d))
/-- An operation's step. -/
def Stp (P : Program) (o : Oper) (a : Act) (w : World) (K : Value → World → Prop) : Prop :=
  (∃ v w', (execOp a.eval o).run P w = .ok (.value v) w' ∧ K v w') ∨
  (o.dst = none ∧ ∃ w', (execOp a.eval o).run P w = .ok .skip w' ∧ K undef w') ∨
  (∃ f args, (execOp a.eval o).run P w = .ok (.enter f args) w ∧ Calls P f args w fun e w' => ∃ v, e = .returned v ∧ K v w')
def Ok (P : Program) (l : List Oper) (a0 : Act) (F : (Nat → Bool) → (Nat → Value) → World → Prop) (i : Nat) (o : Oper) : Prop :=
  ∀ L vs a w, L i = false → (∀ j, dep l i j = true → L j = true) → (∀ i j, L i = true → dep l i j = true → L j = true) → F L vs w → Dp l a0 vs i a → Stp P o a w (fun v w' => F (up L i) (uv vs i v) w')
def AllOk (P : Program) (l : List Oper) (a0 : Act) (F : (Nat → Bool) → (Nat → Value) → World → Prop) : Nat → List Oper → Prop
  | i, o :: os => Ok P l a0 F i o ∧ AllOk P l a0 F (i + 1) os
  | _, [] => True
theorem AllOk.at {P : Program} {l : List Oper} {a0 : Act} {F : (Nat → Bool) → (Nat → Value) → World → Prop} : ∀ (os : List Oper) (i : Nat), AllOk P l a0 F i os → ∀ j o, os[j]? = some o → Ok P l a0 F (i + j) o
  | [], _, _, j, o, h => by simp at h
  | x :: os, i, h, 0, o, ho => by
    simp only [List.getElem?_cons_zero, Option.some.injEq] at ho
    rw [← ho]
    exact h.1
  | x :: os, i, h, j + 1, o, ho => by
    simp only [List.getElem?_cons_succ] at ho
    rw [show i + (j + 1) = i + 1 + j by omega]
    exact AllOk.at os (i + 1) h.2 j o ho
section
variable {P : Program} {l : List Oper} {a0 a : Act} {w w' : World} {L : Nat → Bool} {vs : Nat → Value} {i nt : Nat} {F : (Nat → Bool) → (Nat → Value) → World → Prop} {Q : Exit → Act → World → Prop}
theorem St.dp (h : St l a0 F L vs a w) {o : Oper} (ho : l[i]? = some o) (hr : ∀ e ∈ o.after, Region.binds .any e = true → L e.on = true) : Dp l a0 vs i a := by
  refine ⟨fun j d hd hj => ?_, fun d hd => ?_⟩
  · obtain ⟨e, he, hb, rfl⟩ := dep_of ho hd
    exact eval_get (h.on _ d (hr e he hb) hj)
  · refine eval_same (h.off d fun j _ e => ?_)
    unfold dof at e
    cases hq : l[j]? with
    | none => rw [hq] at e; cases e
    | some q =>
      rw [hq] at e
      have := List.all_eq_true.1 hd q (List.mem_of_getElem? hq)
      have e' : q.dst = some d := e
      simp [e'] at this
/-- One operation is done. -/
theorem St.next {v : Value} (h : St l a0 F L vs a w) (hL : L i = false) (hu : ∀ j d, j ≠ i → dof l i = some d → dof l j ≠ some d) (hd : ∀ d, dof l i = some d → d < a0.tmps.size) (hF : F (up L i) (uv vs i v) w') (hdp : ∀ j, dep l i j = true → L j = true) :
    St l a0 F (up L i) (uv vs i v) (a.put (dof l i) v) w' := by
  refine ⟨by rw [put_defers, h.df], by rw [put_size, h.sz], ?_, ?_, hF, ?_⟩
  · intro j d hj hjd
    rcases up_cases hj with rfl | ⟨hne, hj⟩
    · rw [hjd, put_get _ _ _ (by rw [h.sz]; exact hd d hjd), uv_self]
    · rw [put_other _ _ _ _ (fun e => hu j d hne e hjd), uv_ne v hne]
      exact h.on j d hj hjd
  · intro d hd'
    rw [put_other _ _ _ _ (hd' i (up_self L i))]
    exact h.off d fun j hj => hd' j (up_of hj)
  · intro j k hj hd2
    rcases up_cases hj with rfl | ⟨_, hj⟩
    · exact up_of (hdp k hd2)
    · exact up_of (h.dc j k hj hd2)
theorem St.step (hc : chk l nt = true) (hnt : a0.tmps.size = nt) (ok : AllOk P l a0 F 0 l) (h : St l a0 F L vs a w) (hL : L i = false) {o : Oper} (ho : l[i]? = some o) (hr : ∀ e ∈ o.after, Region.binds .any e = true → L e.on = true)
    {K : Act → World → Prop} (hK : ∀ vs' a' w', St l a0 F (up L i) vs' a' w' → K a' w') : wpOp P l.toArray Q i K a w := by
  have okc := AllOk.at l 0 ok i o ho
  rw [Nat.zero_add] at okc
  obtain ⟨hg, _, hd⟩ := chk_at hc ho
  have hdo : dof l i = o.dst := by unfold dof; rw [ho]; rfl
  have hu : ∀ j d, j ≠ i → dof l i = some d → dof l j ≠ some d := fun j d hj e => (hd d (by rw [← hdo]; exact e)).2 j hj
  have hb : ∀ d, dof l i = some d → d < a0.tmps.size := fun d e => by rw [hnt]; exact (hd d (by rw [← hdo]; exact e)).1
  have hw : Region.wanted o (yielded l.toArray a.tmps) = true := by unfold Region.wanted; rw [hg]
  have hoa : l.toArray[i]? = some o := by simpa using ho
  have hdp : ∀ j, dep l i j = true → L j = true := fun j hj => by
    obtain ⟨e, he, hbd, rfl⟩ := dep_of ho hj
    exact hr e he hbd
  rcases okc L vs a w hL hdp h.dc h.inv (h.dp ho hr) with ⟨v, w', he, hF⟩ | ⟨hdn, w', he, hF⟩ | ⟨f, args, he, hcall⟩
  · have := h.next hL hu hb hF hdp
    rw [hdo] at this
    exact wpOp_value hoa hw he (hK _ _ _ this)
  · have := h.next hL hu hb hF hdp
    rw [hdo, hdn] at this
    unfold wpOp
    rw [hoa]
    simp only [hw, if_true]
    refine .inl ?_
    unfold Oper.wp
    rw [he]
    show K (a.put o.dst undef) w'
    rw [hdn]
    exact hK _ _ _ this
  · refine wpOp_call hoa hw he (hcall.mono ?_)
    rintro e w' ⟨v, rfl, hF⟩
    have := h.next hL hu hb hF hdp
    rw [hdo] at this
    exact ⟨v, rfl, hK _ _ _ this⟩
theorem done_any {listed : Array Bool} (hr : Region.ready .any l.toArray listed = []) (h : Q .normal a w) : ∀ fuel, wpAny P .any l.toArray Q fuel listed a w
  | 0 => ⟨hr, h⟩
  | _ + 1 => ⟨fun _ => h, by rw [hr]; simp⟩
theorem run_inv (hc : chk l nt = true) (hnt : a0.tmps.size = nt) (ok : AllOk P l a0 F 0 l) (FIN : ∀ L vs a w, (∀ i, i < l.length → L i = true) → (∀ i, l.length ≤ i → L i = false) → St l a0 F L vs a w → Q .normal a w) :
    ∀ fuel (listed : Array Bool) vs a w, listed.size = l.length → (∀ i, l.length ≤ i → Lof listed i = false) → listed.toList.count false ≤ fuel → St l a0 F (Lof listed) vs a w → wpAny P .any l.toArray Q fuel listed a w := by
  have fin : ∀ fuel (listed : Array Bool) vs a w, listed.size = l.length → (∀ i, l.length ≤ i → Lof listed i = false) → (∀ i, i < l.length → Lof listed i = true) → St l a0 F (Lof listed) vs a w → wpAny P .any l.toArray Q fuel listed a w := by
    intro fuel listed vs a w hs hno hall h
    refine done_any ?_ (FIN _ vs a w hall hno h) fuel
    apply List.eq_nil_iff_forall_not_mem.2
    intro i hi
    obtain ⟨hun, o, ho, _⟩ := mem_ready.1 hi
    have hil : i < l.length := (List.getElem?_eq_some_iff.1 (by simpa using ho)).1
    have := hall i hil
    unfold Lof at this
    simp [show i < listed.size by omega] at hun this
    rw [hun] at this
    cases this
  intro fuel
  induction fuel with
  | zero =>
    intro listed vs a w hs hno hcnt h
    refine fin 0 listed vs a w hs hno (fun i hi => ?_) h
    cases hq : Lof listed i with
    | true => rfl
    | false => have := count_unlisted (listed := listed) (i := i) (by omega) hq; omega
  | succ fuel ih =>
    intro listed vs a w hs hno hcnt h
    by_cases hall : ∀ i, i < l.length → Lof listed i = true
    · exact fin _ listed vs a w hs hno hall h
    · obtain ⟨i0, hi0, hf0, hlt0⟩ := least hall
      refine ⟨fun h0 => ?_, fun i hi => ?_⟩
      · exfalso
        have ho : l[i0]? = some (l[i0]'(by omega)) := List.getElem?_eq_getElem _
        have : i0 ∈ Region.ready .any l.toArray listed := by
          rw [mem_ready]
          refine ⟨?_, _, (show l.toArray[i0]? = some _ from by rw [List.getElem?_toArray]; exact ho), fun e he hb => ?_⟩
          · have hb : i0 < listed.size := by omega
            have hf := hf0
            unfold Lof at hf
            simp [hb] at hf ⊢
            exact hf
          · exact hlt0 _ ((chk_at hc ho).2.1 e he hb)
        rw [h0] at this
        cases this
      · obtain ⟨hun, o, ho, hr⟩ := mem_ready.1 hi
        have ho' : l[i]? = some o := by simpa using ho
        have hil : i < l.length := (List.getElem?_eq_some_iff.1 ho').1
        have hfi : Lof listed i = false := by
          unfold Lof
          have hb : i < listed.size := by omega
          simp [hb] at hun ⊢
          exact hun
        refine h.step hc hnt ok hfi ho' hr fun vs' a' w' h' => ?_
        rw [← Lof_set (by omega : i < listed.size)] at h'
        have hcs := count_set (listed := listed) (i := i) (by omega) hfi
        refine ih _ vs' a' w' (by rw [Array.size_setIfInBounds]; exact hs) (fun j hj => ?_) (by omega) h'
        rw [Lof_set (by omega : i < listed.size)]
        unfold up
        rw [hno j hj]
        simp
        omega
/-- The slots at the end. -/
def lexi (vs : Nat → Value) : Nat → List Oper → Act → Act
  | _, [], a => a
  | i, o :: r, a => lexi vs (i + 1) r (a.put o.dst (vs i))
theorem lexi_defers : ∀ (r : List Oper) (i : Nat) (a : Act), (lexi vs i r a).defers = a.defers
  | [], _, _ => rfl
  | o :: r, i, a => by show (lexi vs (i + 1) r _).defers = _; rw [lexi_defers r, put_defers]
theorem lexi_none (d : Nat) : ∀ (r : List Oper) (i : Nat) (a : Act), (∀ j, dof r j ≠ some d) → (lexi vs i r a).tmps[d]? = a.tmps[d]?
  | [], _, _, _ => rfl
  | o :: r, i, a, h => by
    show (lexi vs (i + 1) r _).tmps[d]? = _
    rw [lexi_none d r (i + 1) _ (fun j => h (j + 1)), put_other _ _ _ _ (show o.dst ≠ some d from h 0)]
theorem lexi_some (d : Nat) : ∀ (r : List Oper) (i : Nat) (a : Act) (j : Nat), d < a.tmps.size → dof r j = some d → (∀ k, k ≠ j → dof r k ≠ some d) → (lexi vs i r a).tmps[d]? = some (vs (i + j))
  | [], _, _, j, _, h, _ => by simp [dof] at h
  | o :: r, i, a, 0, hd, h, hu => by
    show (lexi vs (i + 1) r _).tmps[d]? = _
    have ho : o.dst = some d := h
    rw [lexi_none d r (i + 1) _ (fun k => hu (k + 1) (by omega)), ho, put_get _ _ _ hd]
    rfl
  | o :: r, i, a, j + 1, hd, h, hu => by
    show (lexi vs (i + 1) r _).tmps[d]? = _
    rw [lexi_some d r (i + 1) _ j (by rw [put_size]; exact hd) h (fun k hk => hu (k + 1) (by omega)), show i + (j + 1) = i + 1 + j by omega]
theorem St.is (hc : chk l nt = true) (hnt : a0.tmps.size = nt) (h : St l a0 F L vs a w) (hL : ∀ i, i < l.length → L i = true) : a = lexi vs 0 l a0 := by
  have ht : a.tmps = (lexi vs 0 l a0).tmps := by
    apply Array.ext_getElem?
    intro d
    by_cases hj : ∃ j, dof l j = some d
    · obtain ⟨j, hj⟩ := hj
      obtain ⟨o, ho, hod⟩ : ∃ o, l[j]? = some o ∧ o.dst = some d := by
        have hj' := hj
        unfold dof at hj'
        cases hq : l[j]? with
        | none => rw [hq] at hj'; cases hj'
        | some q => rw [hq] at hj'; exact ⟨q, rfl, hj'⟩
      obtain ⟨hdn, hu⟩ := (chk_at hc ho).2.2 d hod
      rw [h.on j d (hL j (List.getElem?_eq_some_iff.1 ho).1) hj, lexi_some d l 0 a0 j (by rw [hnt]; exact hdn) hj (fun k hk e => hu k hk e), Nat.zero_add]
    · rw [lexi_none d l 0 a0 (fun j e => hj ⟨j, e⟩)]
      exact h.off d fun j hLj e => hj ⟨j, e⟩
  have hdf : a.defers = (lexi vs 0 l a0).defers := by rw [lexi_defers, h.df]
  cases a
  generalize lexi vs 0 l a0 = b at *
  cases b
  simp only at ht hdf
  rw [ht, hdf]
theorem start_no (i : Nat) : Lof (Array.replicate l.toArray.size false) i = false := by
  unfold Lof
  by_cases hb : i < l.length <;> simp [hb]
/-- A region that draws its order, by an invariant. -/
theorem region_inv {id : Nat} {W : World} (F : (Nat → Bool) → (Nat → Value) → World → Prop) (nt : Nat) (hm : P.follows .mixedOrders = true) (hc : chk l nt = true) (hnt : a0.tmps.size = nt) (ok : AllOk P l a0 F 0 l)
    (h0 : F (fun _ => false) (fun _ => undef) W.drew) (h : ∀ L vs w, (∀ i, i < l.length → L i = true) → F L vs w → Q .normal (lexi vs 0 l a0) w) : (Code.region id l.toArray true).wp P Q a0 W := by
  have hL0 : Lof (Array.replicate l.toArray.size false) = fun _ => false := funext fun i => start_no i
  refine wp_region_any hm (run_inv (F := F) hc hnt ok ?_ _ _ (fun _ => undef) a0 W.drew (by simp) (fun i _ => start_no i) ?_ ?_)
  · intro L vs a w hall _ hst
    rw [hst.is hc hnt hall]
    exact h L vs w hall hst.inv
  · rw [Array.toList_replicate]
    exact Nat.le_trans List.count_le_length (by simp)
  · rw [hL0]
    exact ⟨rfl, rfl, fun i _ hi => (by cases hi), fun _ _ => rfl, h0, fun i _ hi => (by cases hi)⟩
end
end Go.Proofs.Ytkglicidjdifkaa.RQ
