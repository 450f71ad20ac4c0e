/- The field's wrap. No statement is proved here. -/
import Derived.Test.YtgdimnbdnepbgaaFJ
namespace Go.Proofs.Ytgdimnbdnepbgaa
open Go.RowKit
set_option linter.unusedVariables false
set_option maxRecDepth 40000

/-- What wrap leaves. -/
def wrapL (o : List Nat) : List Nat := (passk o 5).1.set 0 ((passk o 5).1.getD 0 0 + 19 * (passk o 5).2)

set_option maxHeartbeats 400000 in
theorem wrap_core (g : Nat) (o o1 : List Nat) (c a r : Nat) (w : World) (hl : Hid (o1.length = 5)) (ha : Hid (o1.getD 0 0 = a)) (hr : Hid (IntKind.u64.wrap ((a : Int) + IntKind.u64.wrap (19 * (c : Int))) = (r : Int)))
    (HP : Hid (Calls Try.prog 106 #[.pointer (some ⟨g, 0, none⟩)] w fun e w' => e = .returned (.int .u64 c) ∧ WAt w' g o1 ∧ Keeps (· = g) w w')) :
    Calls Try.prog 98 #[.pointer (some ⟨g, 0, none⟩)] w (Sets g (o1.set 0 r) w) := by
  go_enter Try.func98, Try.ntmps98
  go_wp2_with fail
  refine (HP.out).mono ?_
  rintro e w1 ⟨rfl, hw, hk⟩
  have HW := Lib.hid hw
  have HK := Lib.hid hk
  clear hw hk HP
  go_wp2_with fail
  have HC := Lib.hid (HW.out.cell 0 (by omega))
  rw [ha.out] at HC
  have hc := HC.out
  have hc' : ({ heap := w1.heap, tape := w1.tape, drawn := w1.drawn + 1, os := w1.os, output := w1.output } : World).cell? ⟨g, 0, none⟩ = some (.int .u64 (a : Int)) := hc
  go_still_tail 9, (by kernel_rfl)
  clear hc hc' HC
  have HD : Hid (Ps g w o1 { heap := w1.heap, tape := w1.tape, drawn := w1.drawn + 1, os := w1.os, output := w1.output }) := (Ps.mk HW.out HK.out).drewN 1
  clear HW HK
  generalize ({ heap := w1.heap, tape := w1.tape, drawn := w1.drawn + 1, os := w1.os, output := w1.output } : World) = wd at *
  obtain ⟨t, ht⟩ := HD.out.at_.2
  refine wpList_store_one rfl 24 (.tmp 13) (.tmp 11) rfl g 0 rfl .u64 _ rfl t _ ht size24 (by simp only [List.size_toArray, ucs_len]; have := hl.out; omega) ?_
  intro w3 hh hg hz
  rw [hr.out, ucs_set] at hh
  have HP0 := Lib.hid (HD.out.set hg 0 _ hh)
  clear hh hg hz ht HD hr
  go_wp2_with fail
  refine bodyPost_end (results_none rfl _ _ _) rfl ?_
  exact ⟨rfl, HP0.out.at_, HP0.out.keeps⟩

theorem wrap_any (g : Nat) (o : List Nat) (w : World) (hw : WAt w g o) (ho : Bnd 9223372036854775808 o) :
    Calls Try.prog 98 #[.pointer (some ⟨g, 0, none⟩)] w (Sets g (wrapL o) w) := by
  have hc := passk_carry o ho 5 (Nat.le_refl _)
  have hb := (pass_bnd o ho.1).2 0 (by omega)
  refine wrap_core g o (passk o 5).1 (passk o 5).2 ((passk o 5).1.getD 0 0) _ w ((passk_len o 5).trans ho.1) rfl ?_ (pass_any g o w hw ho)
  generalize (passk o 5).2 = c at *
  generalize (passk o 5).1.getD 0 0 = a at *
  exact Lib.hid (by rw [IntKind.wrap_u64, IntKind.wrap_u64]; omega)
theorem set0_val (o : List Nat) (x : Nat) (h : o.length = 5) : val5 (o.set 0 (o.getD 0 0 + x)) = val5 o + x := by
  match o, h with
  | [a, b, c, d, e], _ =>
    simp only [List.set, List.getD_cons_zero, val5]
    omega
/-- Wrapping keeps the residue, and leaves words of little more than 51 bits. -/
theorem wrap_val (o : List Nat) (ho : Bnd 9223372036854775808 o) :
    ∃ q, val5 (wrapL o) + q * 57896044618658097711785492504343953926634992332820282019728792003956564819949 = val5 o ∧ Bnd 2251799813763072 (wrapL o) ∧
      val5 (wrapL o) < 57896044618658097711785492504343953926634992332820282019728792003956564897792 := by
  have h1 := pass_val o ho.1
  have hc := passk_carry o ho 5 (Nat.le_refl _)
  have hb := pass_bnd o ho.1
  unfold wrapL
  generalize (passk o 5).2 = c at *
  generalize (passk o 5).1 = o1 at *
  have hv := set0_val o1 (19 * c) hb.1
  have hlt : val5 o1 < 57896044618658097711785492504343953926634992332820282019728792003956564819968 := by
    obtain ⟨hl, hb⟩ := hb
    match o1, hl with
    | [x0, x1, x2, x3, x4], _ =>
      have h0 := hb 0 (by omega)
      have h1 := hb 1 (by omega)
      have h2 := hb 2 (by omega)
      have h3 := hb 3 (by omega)
      have h4 := hb 4 (by omega)
      simp only [List.getD_cons_zero, List.getD_cons_succ] at h0 h1 h2 h3 h4
      simp only [val5]
      omega
  refine ⟨c, by rw [hv]; omega, ⟨by rw [List.length_set]; exact hb.1, fun i hi => ?_⟩, by rw [hv]; omega⟩
  have := hb.2 i hi
  have hl := hb.1
  rw [List.getD_eq_getElem?_getD, List.getElem?_set]
  split
  · rename_i h
    have h0 := hb.2 0 (by omega)
    rw [if_pos (by omega)]
    simp only [Option.getD_some]
    omega
  · rw [← List.getD_eq_getElem?_getD]
    omega
end Go.Proofs.Ytgdimnbdnepbgaa
