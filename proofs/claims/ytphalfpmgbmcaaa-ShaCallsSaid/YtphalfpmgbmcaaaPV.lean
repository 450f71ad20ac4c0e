/- Regions whose order is drawn: an operation may be taken first if the storing ones wait for it, directly or by way of others. No statement is proved here. -/
import Derived.Test.YtphalfpmgbmcaaaPF
namespace Go.Proofs.Ytphalfpmgbmcaaa
open Go.RowKit
set_option linter.unusedVariables false

section
variable {P : Program} {ops : Array Oper} {Q : Exit → Act → World → Prop} {md : Region.Mode} {W : Nat → Bool} {lo : Nat}
/-- Does number j wait for number i, directly or by way of others? -/
def waitsT (md : Region.Mode) (ops : Array Oper) : Nat → Nat → Nat → Bool
  | 0, j, i => waits md ops j i
  | f + 1, j, i => waits md ops j i || (List.range ops.size).any fun k => waits md ops j k && waitsT md ops f k i
def Deps (md : Region.Mode) (ops : Array Oper) (listed : Array Bool) (j : Nat) : Prop := ∃ o, ops[j]? = some o ∧ ∀ e ∈ o.after, Region.binds md e = true → listed.getD e.on false = true
def Closed (md : Region.Mode) (ops : Array Oper) (listed : Array Bool) : Prop := ∀ k o, ops[k]? = some o → listed.getD k false = true → ∀ e ∈ o.after, Region.binds md e = true → listed.getD e.on false = true
def closedB (md : Region.Mode) (ops : Array Oper) (listed : Array Bool) : Bool := (List.range ops.size).all fun k => !listed.getD k false || (match ops[k]? with | some o => o.after.toList.all fun e => !Region.binds md e || listed.getD e.on false | none => true)
theorem closedB_spec {listed : Array Bool} (h : closedB md ops listed = true) : Closed md ops listed := by
  intro k o ho hk e he hb
  have := List.all_eq_true.1 h k (List.mem_range.2 (Array.getElem?_eq_some_iff.1 ho).1)
  simp only [ho, hk, Bool.not_true, Bool.false_or] at this
  have := List.all_eq_true.1 this e (by simpa using he)
  simpa [hb] using this
theorem Closed.next {listed : Array Bool} (h : Closed md ops listed) {j : Nat} (hj : j ∈ Region.ready md ops listed) : Closed md ops (listed.setIfInBounds j true) := by
  intro k o ho hk e he hb
  by_cases hkj : j = k
  · subst hkj
    obtain ⟨_, o', ho', hall⟩ := mem_ready.1 hj
    obtain rfl : o = o' := Option.some.inj (ho.symm.trans ho')
    exact getD_set_true (hall e he hb)
  · rw [getD_set_ne false hkj] at hk
    exact getD_set_true (h k o ho hk e he hb)
theorem waits_listed {listed : Array Bool} {j i : Nat} (hd : Deps md ops listed j) (hw : waits md ops j i = true) : listed.getD i false = true := by
  obtain ⟨o, ho, hall⟩ := hd
  unfold waits at hw
  simp only [ho] at hw
  obtain ⟨e, he, hb⟩ := List.any_eq_true.1 hw
  simp only [Bool.and_eq_true, beq_iff_eq] at hb
  rw [← hb.2]
  exact hall e (by simpa using he) hb.1
theorem waits_some {j i : Nat} (hw : waits md ops j i = true) : ∃ o, ops[j]? = some o := by
  unfold waits at hw
  cases h : ops[j]? with
  | none => simp [h] at hw
  | some o => exact ⟨o, rfl⟩
theorem waitsT_some {j i : Nat} : ∀ f, waitsT md ops f j i = true → ∃ o, ops[j]? = some o
  | 0, h => waits_some h
  | f + 1, h => by
    simp only [waitsT, Bool.or_eq_true] at h
    rcases h with h | h
    · exact waits_some h
    · obtain ⟨k, _, hk⟩ := List.any_eq_true.1 h
      simp only [Bool.and_eq_true] at hk
      exact waits_some hk.1
theorem waitsT_listed {listed : Array Bool} (hc : Closed md ops listed) {i : Nat} : ∀ (f j : Nat), Deps md ops listed j → waitsT md ops f j i = true → listed.getD i false = true
  | 0, j, hd, h => waits_listed hd h
  | f + 1, j, hd, h => by
    simp only [waitsT, Bool.or_eq_true] at h
    rcases h with h | h
    · exact waits_listed hd h
    · obtain ⟨k, _, hk⟩ := List.any_eq_true.1 h
      simp only [Bool.and_eq_true] at hk
      obtain ⟨o, ho⟩ := waitsT_some f hk.2
      exact waitsT_listed hc f k ⟨o, ho, hc k o ho (waits_listed hd hk.1)⟩ hk.2
theorem ready_not_listed {listed : Array Bool} {i : Nat} (hr : i ∈ Region.ready md ops listed) (h : listed.getD i false = true) : False := by
  have h0 := (mem_ready.1 hr).1
  rcases Nat.lt_or_ge i listed.size with h' | h'
  · simp [h'] at h0 h
    rw [h0] at h
    cases h
  · simp [Array.getElem?_eq_none h'] at h
theorem wpAnyW_firstT {F : Nat} {i : Nat} {oi : Oper} {v : Value} (hi : ops[i]? = some oi) (hWi : W i = false) (hW : ∀ j oj, ops[j]? = some oj → W j = true → waitsT md ops F j i = true)
    (hsel : ∀ (j : Nat) (o : Oper) cs b, ops[j]? = some o → o.op ≠ .select cs b) (hQ : ∀ c a w, Q (.panic c) (a.put oi.dst v) w → Q (.panic c) a w) :
    ∀ (fuel : Nat) (listed : Array Bool) (a : Act) (w : World), Closed md ops listed →
      (∀ j oj, ops[j]? = some oj → j ≠ i → listed.getD j true = false → (∀ e ∈ oj.after, Region.binds md e = true → e.on ≠ i) → oi.apart ops oj = true) →
      i ∈ Region.ready md ops listed → YieldsIf P ops (fun w' => Below lo w w') oi v a →
      wpAnyW P md ops Q W lo fuel (listed.setIfInBounds i true) (a.put oi.dst v) w → wpAnyW P md ops Q W lo (fuel + 1) listed a w := by
  intro fuel
  induction fuel with
  | zero =>
    intro listed a w _ _ hr hy H
    refine ⟨fun h => (by rw [h] at hr; cases hr), fun j hj => ?_⟩
    by_cases hji : j = i
    · subst hji
      exact hy.wpOp hi (Below.refl _ w) ⟨fun _ => Below.refl _ w, H⟩
    · have := ready_mono hj hji
      rw [H.1] at this
      cases this
  | succ fuel ih =>
    intro listed a w hcl hfree hr hy H
    refine ⟨fun h => (by rw [h] at hr; cases hr), fun j hj => ?_⟩
    by_cases hji : j = i
    · subst hji
      exact hy.wpOp hi (Below.refl _ w) ⟨fun _ => Below.refl _ w, H⟩
    · have h1 := H.2 j (ready_mono hj hji)
      obtain ⟨hjun, oj, hoj, hall⟩ := mem_ready.1 hj
      have hWj : W j = false := by
        cases hw : W j with
        | false => rfl
        | true => exact absurd (waitsT_listed hcl F j ⟨oj, hoj, hall⟩ (hW j oj hoj hw)) (fun h => ready_not_listed hr h)
      have hnot : ∀ e ∈ oj.after, Region.binds md e = true → e.on ≠ i := fun e he hb heq => by
        have h1 := hall e he hb
        rw [heq] at h1
        exact ready_not_listed hr h1
      have h2 := wpOp_putIf hoj (hfree j oj hoj hji hjun hnot) (fun cs b => hsel i oi cs b hi) (fun cs b => hsel j oj cs b hoj) hQ hy h1
      have hfree' : ∀ k ok, ops[k]? = some ok → k ≠ i → (listed.setIfInBounds j true).getD k true = false →
          (∀ e ∈ ok.after, Region.binds md e = true → e.on ≠ i) → oi.apart ops ok = true := fun k ok hk hki hun hno => by
        refine hfree k ok hk hki ?_ hno
        by_cases hjk : j = k
        · subst hjk
          exact hjun
        · rw [getD_set_ne true hjk] at hun
          exact hun
      refine wpOp_mono (fun a' w' h3 => ⟨h3.2.1, ih (listed.setIfInBounds j true) a' w' (hcl.next hj) hfree' (ready_mono hr (Ne.symm hji))
        (YieldsIf.weak h3.1 (fun w'' hw'' => (h3.2.1 hWj).trans hw'')) ?_⟩) h2
      rw [Array.setIfInBounds_comm _ _ hji]
      exact h3.2.2

variable {fuel : Nat} {listed : Array Bool} {a : Act} {w : World}
def allWaitT (md : Region.Mode) (ops : Array Oper) (W : Nat → Bool) (i : Nat) : Bool := !W i && (List.range ops.size).all fun j => !W j || waitsT md ops 2 j i
theorem allWaitT_spec {i : Nat} (h : allWaitT md ops W i = true) : W i = false ∧ ∀ j oj, ops[j]? = some oj → W j = true → waitsT md ops 2 j i = true := by
  simp only [allWaitT, Bool.and_eq_true, Bool.not_eq_true'] at h
  refine ⟨h.1, fun j oj hj hw => ?_⟩
  have := List.all_eq_true.1 h.2 j (List.mem_range.2 (Array.getElem?_eq_some_iff.1 hj).1)
  simpa [hw] using this
theorem takeT {i : Nat} {oi : Oper} (v : Value) (hi : ops[i]? = some oi) (hc : closedB md ops listed = true) (ha : allWaitT md ops W i = true) (hs : Region.noSelect ops = true) (hf : Region.free md ops listed i = true) (hr : (Region.ready md ops listed).contains i = true)
    (hQ : ∀ c a w, Q (.panic c) (a.put oi.dst v) w → Q (.panic c) a w) (hw : Region.wanted oi (yielded ops a.tmps) = true) (hv : ∀ w', Below lo w w' → (execOp a.eval oi).run P w' = .ok (.value v) w')
    (h : wpAnyW P md ops Q W lo fuel (listed.setIfInBounds i true) (a.put oi.dst v) w) : wpAnyW P md ops Q W lo (fuel + 1) listed a w :=
  wpAnyW_firstT hi (allWaitT_spec ha).1 (allWaitT_spec ha).2 (Region.noSelect_spec hs) hQ fuel listed a w (closedB_spec hc) (Region.free_spec hi hf) (by simpa using hr) (.inl ⟨hw, hv⟩) h
end
end Go.Proofs.Ytphalfpmgbmcaaa
