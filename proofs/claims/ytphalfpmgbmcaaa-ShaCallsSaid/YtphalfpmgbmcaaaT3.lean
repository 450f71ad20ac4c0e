/- Which wide number is greater. No statement is proved here. -/
import Derived.Test.YtphalfpmgbmcaaaT2
namespace Go.Proofs.Ytphalfpmgbmcaaa
open Go.RowKit
set_option linter.unusedVariables false

theorem wl_get (n k : Nat) (hk : k < 4) : (wl n).getD k 0 = n / X64 ^ k % X64 := by
  match k, hk with
  | 0, _ => simp [wl]
  | 1, _ => simp [wl]
  | 2, _ => rfl
  | 3, _ => rfl
theorem div_step (n k : Nat) (hk : k < 4) : n / X64 ^ k = X64 * (n / X64 ^ (k + 1)) + (wl n).getD k 0 := by
  rw [wl_get n k hk, Nat.pow_succ, ← Nat.div_div_eq_div_mul]
  exact (Nat.div_add_mod _ _).symm
theorem lt_of_div {a b m : Nat} (h : a / m < b / m) : a < b := by
  rcases Nat.lt_or_ge a b with h' | h'
  · exact h'
  · have := Nat.div_le_div_right (c := m) h'
    omega
/-- What is known of the higher words. -/
theorem cmp_ne {A C k : Nat} (hk : k < 4) (h : A / X64 ^ (k + 1) = C / X64 ^ (k + 1)) (hne : (wl A).getD k 0 ≠ (wl C).getD k 0) : ((wl C).getD k 0 < (wl A).getD k 0 ↔ C < A) := by
  have ha := div_step A k hk
  have hc := div_step C k hk
  rw [h] at ha
  constructor
  · intro hlt
    exact lt_of_div (m := X64 ^ k) (by omega)
  · intro hlt
    have := Nat.div_le_div_right (c := X64 ^ k) (Nat.le_of_lt hlt)
    omega
theorem cmp_eq {A C k : Nat} (hk : k < 4) (h : A / X64 ^ (k + 1) = C / X64 ^ (k + 1)) (he : (wl A).getD k 0 = (wl C).getD k 0) : A / X64 ^ k = C / X64 ^ k := by
  rw [div_step A k hk, div_step C k hk, h, he]

/-- The memory of a comparison. -/
structure Ab (B : Nat) (w0 : World) (A C : Nat) (w : World) : Prop where
  b0 : w.heap[B]? = some (.cells (ucs (wl A)).toArray 62 (0, 0))
  b1 : w.heap[B + 1]? = some (.cells (ucs (wl C)).toArray 62 (0, 0))
  bel : Below B w0 w
theorem Ab.drewN {B : Nat} {w0 : World} {A C : Nat} {w : World} (h : Ab B w0 A C w) (k : Nat) : Ab B w0 A C (w.drewN k) := ⟨h.b0, h.b1, below_drewN' h.bel k⟩

set_option maxRecDepth 100000 in
set_option maxHeartbeats 1000000 in
theorem above_any (A C : Nat) (hA : A < X64 ^ 4) (hC : C < X64 ^ 4) (w : World) : Calls Try.prog 45 #[.agg (ucs (wl A)).toArray, .agg (ucs (wl C)).toArray] w (Gives (.bool (decide (C < A))) w) := by
  have HA := Lib.hid hA
  have HC := Lib.hid hC
  clear hA hC
  have HAb : Hid (Ab w.heap.size w A C ((w.alloc (.cells (ucs (wl A)).toArray 62)).alloc (.cells (ucs (wl C)).toArray 62))) := by
    refine ⟨(heap_alloc_old _ _ (by simp)).trans (heap_alloc_new w _), ?_, (below_alloc w _).trans ((below_alloc _ _).mono (by simp))⟩
    have := heap_alloc_new (w.alloc (Obj.cells (ucs (wl A)).toArray 62)) (Obj.cells (ucs (wl C)).toArray 62)
    simpa using this
  generalize hRR : decide (C < A) = RR
  have HRR := Lib.hid hRR
  clear hRR
  go_enter Try.func45, Try.ntmps45
  go_wp2
  go_loopw [5] (fun i wr => ∃ k : Nat, k ≤ 4 ∧ i = .int .i64 ((k : Int) - 1) ∧ A / X64 ^ k = C / X64 ^ k ∧ Ab w.heap.size w A C wr) (fun i _ => (intOf i + 1).toNat)
  case atStart => exact ⟨4, by omega, rfl, by rw [Nat.div_eq_of_lt HA.out, Nat.div_eq_of_lt HC.out], HAb.out⟩
  case round =>
    obtain ⟨k, hk, rfl, heq, hab⟩ := hrel
    have H := Lib.hid hab
    have HE := Lib.hid heq
    clear hab heq HAb
    by_cases hk0 : k = 0
    · have hCA : C = A := by have := HE.out; rw [hk0] at this; simpa using this.symm
      have hR : RR = false := by rw [← HRR.out, hCA]; simp
      subst hR
      subst hk0
      clear HA HC HRR HE hCA
      go_wp2
      go_ret
      exact ⟨rfl, H.out.bel⟩
    · obtain ⟨q, rfl⟩ : ∃ q, k = q + 1 := ⟨k - 1, by omega⟩
      have e1 : (((q + 1 : Nat) : Int) - 1) = (q : Int) := by omega
      rw [e1]
      have hq : q < 4 := by omega
      have hqi : (q : Int) < 4 := by omega
      have ca := word_cell H.out.b0 q (by rw [wl_len]; exact hq)
      have cb := word_cell H.out.b1 q (by rw [wl_len]; exact hq)
      have HNE : Hid ((wl A).getD q 0 ≠ (wl C).getD q 0 → ((wl C).getD q 0 < (wl A).getD q 0 ↔ C < A)) := fun h => cmp_ne hq HE.out h
      have HEQ : Hid ((wl A).getD q 0 = (wl C).getD q 0 → A / X64 ^ q = C / X64 ^ q) := fun h => cmp_eq hq HE.out h
      clear HE HA HC hk0 e1
      generalize (wl A).getD q 0 = a at *
      generalize (wl C).getD q 0 = c at *
      have CA := Lib.hid ca
      have CB := Lib.hid cb
      clear ca cb
      by_cases hac : a = c
      · subst hac
        have HE2 := Lib.hid (HEQ.out rfl)
        clear HEQ
        have hne : ((a : Int) != (a : Int)) = false := by simp
        go_wp2_with fail
        have ca := CA.out
        have cb := CB.out
        go_quiet (fail)
        have H2 := Lib.hid (H.out.drewN nq)
        generalize wr.drewN nq = w2 at *
        clear ca cb CA CB HNE
        go_wp2
        go_roundw
        case rel =>
          first | exact ⟨q, by omega, by go_num, HE2.out, H2.out⟩ | ((repeat apply Exists.intro); exact ⟨⟨q, by omega, by go_num, HE2.out, H2.out⟩, rfl⟩)
        case measure => first | (simp [intOf]; done) | (simp [intOf]; omega)
      · have hne : ((a : Int) != (c : Int)) = true := by simp; omega
        have HAC : Hid (decide (c < a) = RR) := by
          rw [← HRR.out]
          exact decide_eq_decide.mpr (HNE.out hac)
        clear HEQ HRR
        go_wp2_with fail
        have ca := CA.out
        have cb := CB.out
        go_quiet (fail)
        have H2 := Lib.hid (H.out.drewN nq)
        have ca2 : (wr.drewN nq).cell? ⟨w.heap.size, q, none⟩ = some (.int .u64 (a : Int)) := CA.out
        have cb2 : (wr.drewN nq).cell? ⟨w.heap.size + 1, q, none⟩ = some (.int .u64 (c : Int)) := CB.out
        clear ca cb CA CB HNE
        generalize wr.drewN nq = w2 at *
        have CA2 := Lib.hid ca2
        have CB2 := Lib.hid cb2
        clear ca2 cb2
        go_wp2_with fail
        have ca := CA2.out
        have cb := CB2.out
        go_quiet (fail)
        rw [HAC.out]
        have H3 := Lib.hid (H2.out.drewN nq)
        generalize w2.drewN nq = w3 at *
        clear ca cb CA2 CB2 HAC
        go_wp2
        go_ret
        exact ⟨rfl, H3.out.bel⟩
end Go.Proofs.Ytphalfpmgbmcaaa
