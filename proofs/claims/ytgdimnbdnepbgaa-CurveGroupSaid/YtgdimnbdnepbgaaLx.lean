/- The lexical order of a long region, checked in fewer steps. No statement is proved here. -/
import Derived.Test.YtgdimnbdnepbgaaGE
namespace Go.Proofs.Ytgdimnbdnepbgaa
open Go.RowKit
set_option linter.unusedVariables false
set_option linter.unusedSimpArgs false

def lstd (k m : Nat) : Array Bool := (List.replicate k true ++ List.replicate m false).toArray
theorem lstd_get (k m j : Nat) (d : Bool) : (lstd k m).getD j d = if j < k then true else if j < k + m then false else d := by
  unfold lstd
  rw [Array.getD_eq_getD_getElem?, List.getElem?_toArray]
  by_cases h : j < k
  · rw [if_pos h, List.getElem?_append_left (by simpa using h), List.getElem?_replicate, if_pos h]; rfl
  · rw [if_neg h, List.getElem?_append_right (by simpa using Nat.le_of_not_lt h), List.getElem?_replicate, List.length_replicate]
    by_cases h2 : j < k + m
    · rw [if_pos h2, if_pos (by omega)]; rfl
    · rw [if_neg h2, if_neg (by omega)]; rfl
theorem lstd_set (k m : Nat) : (lstd k (m + 1)).setIfInBounds k true = lstd (k + 1) m := by
  unfold lstd
  apply Array.toList_inj.1
  rw [Array.toList_setIfInBounds]
  show (List.replicate k true ++ List.replicate (m + 1) false).set k true = List.replicate (k + 1) true ++ List.replicate m false
  rw [List.set_append_right _ _ (by simp), List.length_replicate, Nat.sub_self, List.replicate_succ, List.set_cons_zero]
  simp [List.replicate_succ', List.append_assoc]
def stepsOk (md : Region.Mode) (ops : Array Oper) : Nat → List Oper → Bool
  | _, [] => true
  | k, o :: l => (o.after.all fun e => !Region.binds md e || decide (e.on < k)) && ((l.all fun oj => oj.after.any (fun e => Region.binds md e && e.on == k) || o.apart ops oj) && stepsOk md ops (k + 1) l)
theorem lex_steps (md : Region.Mode) (ops : Array Oper) : ∀ (l : List Oper) (k : Nat), (∀ j, l[j]? = ops[k + j]?) → k + l.length = ops.size → stepsOk md ops k l = true → Region.lexFrom md ops l.length k (lstd k l.length) = true
  | [], k, _, hn, _ => by
    show (Region.ready md ops (lstd k 0)).isEmpty = true
    rw [List.isEmpty_iff, List.eq_nil_iff_forall_not_mem]
    intro j hj
    have h := (mem_ready.1 hj).1
    rw [lstd_get] at h
    by_cases h1 : j < k
    · rw [if_pos h1] at h; cases h
    · rw [if_neg h1, if_neg (by simpa using h1)] at h; cases h
  | o :: l, k, hl, hn, h => by
    have h0 : ops[k]? = some o := by simpa using (hl 0).symm
    simp only [stepsOk, Bool.and_eq_true] at h
    obtain ⟨h1, h2, h3⟩ := h
    show ((Region.ready md ops (lstd k (l.length + 1))).contains k && Region.free md ops (lstd k (l.length + 1)) k && Region.lexFrom md ops l.length (k + 1) ((lstd k (l.length + 1)).setIfInBounds k true)) = true
    rw [lstd_set, lex_steps md ops l (k + 1) (fun j => by have := hl (j + 1); simpa [Nat.add_assoc, Nat.add_comm 1 j] using this) (by simp only [List.length_cons] at hn; omega) h3, Bool.and_true, Bool.and_eq_true]
    constructor
    · rw [List.contains_iff_mem, mem_ready]
      refine ⟨by rw [lstd_get, if_neg (by omega), if_pos (by omega)], o, h0, fun e he hb => ?_⟩
      have := Array.all_eq_true_iff_forall_mem.1 h1 e he
      rw [hb] at this
      simp at this
      rw [lstd_get, if_pos this]
    · unfold Region.free
      rw [h0]
      simp only
      rw [List.all_eq_true]
      intro j hj
      rw [List.mem_range] at hj
      by_cases hjk : j = k
      · subst hjk; simp
      · by_cases hlt : j < k
        · rw [lstd_get, if_pos hlt]; simp
        · obtain ⟨i, rfl⟩ : ∃ i, j = k + (i + 1) := ⟨j - k - 1, by omega⟩
          have hli : (o :: l)[i + 1]? = ops[k + (i + 1)]? := hl (i + 1)
          rw [List.getElem?_cons_succ] at hli
          rw [← hli]
          cases ho : l[i]? with
          | none => simp
          | some oj =>
            have hm := List.mem_of_getElem? ho
            have := List.all_eq_true.1 h2 oj hm
            simp only [Bool.or_eq_true] at this ⊢
            exact .inr this
theorem lexB_steps (md : Region.Mode) (l : List Oper) (h1 : Region.noSelect l.toArray = true) (h2 : stepsOk md l.toArray 0 l = true) : Region.lexB md l.toArray = true := by
  unfold Region.lexB
  rw [h1, Bool.true_and]
  have h := lex_steps md l.toArray l 0 (fun j => by rw [Nat.zero_add, List.getElem?_toArray]) (by simp) h2
  have e : (Array.replicate l.toArray.size false) = lstd 0 l.length := by
    unfold lstd
    apply Array.toList_inj.1
    simp
  rw [e]
  simpa using h
/-- A long region. -/
theorem region_wq2 {id : Nat} {Q : Exit → Act → World → Prop} {a : Act} {w : World} {l : List Oper} (hm : Try.prog.follows .mixedOrders = true) (h1 : Region.noSelect l.toArray = true) (h2 : stepsOk .any l.toArray 0 l = true)
    (h : WQ Try.prog l.toArray (CB w) (fun a' => ∀ w', Below w.heap.size w w' → Q .normal a' w') l a) : (Code.region id l.toArray true).wp Try.prog Q a w := region_wq hm (lexB_steps _ _ h1 h2) h
end Go.Proofs.Ytgdimnbdnepbgaa
