/- The field's shift of an exponent. No statement is proved here. -/
import Derived.Test.YtgdimnbdnepbgaaFP
namespace Go.Proofs.Ytgdimnbdnepbgaa
open Go.RowKit
set_option linter.unusedVariables false
set_option maxRecDepth 40000

/-- Four words lie in row g. -/
def QAt (w : World) (g : Nat) (o : List Nat) : Prop := o.length = 4 ∧ ∃ t, w.heap[g]? = some (.cells (ucs o).toArray t (0, 0))
theorem QAt.lt {w : World} {g : Nat} {o : List Nat} (h : QAt w g o) : g < w.heap.size := by
  obtain ⟨_, t, ht⟩ := h
  exact (Array.getElem?_eq_some_iff.1 ht).1
theorem QAt.keeps {G : Nat → Prop} {w w' : World} {g : Nat} {o : List Nat} (h : QAt w g o) (hk : Keeps G w w') (hg : ¬ G g) : QAt w' g o := by
  have := h.lt
  obtain ⟨hl, t, ht⟩ := h
  exact ⟨hl, t, (hk.block g this hg).trans ht⟩
theorem QAt.cell {w : World} {g : Nat} {o : List Nat} (h : QAt w g o) (i : Nat) (hi : i < 4) : w.cell? ⟨g, i, none⟩ = some (.int .u64 (o.getD i 0 : Nat)) := by
  obtain ⟨hl, t, ht⟩ := h
  exact word_cell ht i (by omega)
/-- The memory of shift. -/
structure Qs (g : Nat) (w : World) (o : List Nat) (w' : World) : Prop where
  at_ : QAt w' g o
  keeps : Keeps (· = g) w w'
theorem Qs.set {g : Nat} {w : World} {o : List Nat} {w' w'' : World} {t : TypeId} (h : Qs g w o w') (hg : w'.grownBy w'' (some g)) (i x : Nat) (hh : w''.heap[g]? = some (.cells (ucs (o.set i x)).toArray t (0, 0))) : Qs g w (o.set i x) w'' :=
  ⟨⟨by rw [List.length_set]; exact h.at_.1, t, hh⟩, h.keeps.trans (Keeps.of_grown hg (fun r hr => by injection hr with hr; exact hr.symm))⟩
theorem Qs.drewN {g : Nat} {w : World} {o : List Nat} {w' : World} (h : Qs g w o w') (n : Nat) : Qs g w o (w'.drewN n) :=
  ⟨h.at_, h.keeps.trans (Keeps.drewN _ _ _)⟩

set_option maxHeartbeats 2000000 in
theorem shift_core (g q0 q1 q2 q3 r0 r1 r2 r3 : Nat) (b : Bool) (w : World) (S : Hid (Qs g w [q0, q1, q2, q3] w))
    (VT : Hid (((q3 : Int) / 9223372036854775808 == 1) = b))
    (V3 : Hid (bits .or .u64 (IntKind.u64.wrap ((q3 : Int) * 2)) ((q2 : Int) / 9223372036854775808) = (r3 : Int)))
    (V2 : Hid (bits .or .u64 (IntKind.u64.wrap ((q2 : Int) * 2)) ((q1 : Int) / 9223372036854775808) = (r2 : Int)))
    (V1 : Hid (bits .or .u64 (IntKind.u64.wrap ((q1 : Int) * 2)) ((q0 : Int) / 9223372036854775808) = (r1 : Int)))
    (V0 : Hid (IntKind.u64.wrap ((q0 : Int) * 2) = (r0 : Int))) :
    Calls Try.prog 99 #[.pointer (some ⟨g, 0, none⟩)] w fun e w' => e = .returned (.bool b) ∧ QAt w' g [r0, r1, r2, r3] ∧ Keeps (· = g) w w' := by
  have c3 := S.out.at_.cell 3 (by omega)
  simp only [List.getD_cons_zero, List.getD_cons_succ] at c3
  go_enter Try.func99, Try.ntmps99
  go_wp2_with fail
  clear c3
  have c0 := S.out.at_.cell 3 (by omega)
  have c1 := S.out.at_.cell 2 (by omega)
  simp only [List.getD_cons_zero, List.getD_cons_succ] at c0 c1
  have c0' : ({ heap := w.heap, tape := w.tape, drawn := w.drawn + 1, os := w.os, output := w.output } : World).cell? ⟨g, 3, none⟩ = some (.int .u64 (q3 : Int)) := c0
  have c1' : ({ heap := w.heap, tape := w.tape, drawn := w.drawn + 1, os := w.os, output := w.output } : World).cell? ⟨g, 2, none⟩ = some (.int .u64 (q2 : Int)) := c1
  go_still_tail 14, (by kernel_rfl)
  clear c0 c1 c0' c1'
  have HD : Hid (Qs g w [q0, q1, q2, q3] { heap := w.heap, tape := w.tape, drawn := w.drawn + 1, os := w.os, output := w.output }) := S.out.drewN 1
  clear S
  obtain ⟨z0, hz⟩ : ∃ z, z = ({ heap := w.heap, tape := w.tape, drawn := w.drawn + 1, os := w.os, output := w.output } : World) := ⟨_, rfl⟩
  rw [← hz] at HD
  rw [← hz]
  clear hz
  obtain ⟨t, ht⟩ := HD.out.at_.2
  refine wpList_store_one rfl 24 (.tmp 22) (.tmp 20) rfl g 3 rfl .u64 _ rfl t _ ht size24 (by simp [ucs_len]) ?_
  intro y0 hh hg hz
  rw [V3.out, ucs_set] at hh
  have S : Hid (Qs g w [q0, q1, q2, r3] y0) := HD.out.set hg 3 r3 hh
  clear hh hg hz ht HD V3
  go_wp2_with fail
  have c0 := S.out.at_.cell 2 (by omega)
  have c1 := S.out.at_.cell 1 (by omega)
  simp only [List.getD_cons_zero, List.getD_cons_succ] at c0 c1
  have c0' : ({ heap := y0.heap, tape := y0.tape, drawn := y0.drawn + 1, os := y0.os, output := y0.output } : World).cell? ⟨g, 2, none⟩ = some (.int .u64 (q2 : Int)) := c0
  have c1' : ({ heap := y0.heap, tape := y0.tape, drawn := y0.drawn + 1, os := y0.os, output := y0.output } : World).cell? ⟨g, 1, none⟩ = some (.int .u64 (q1 : Int)) := c1
  go_still_tail 14, (by kernel_rfl)
  clear c0 c1 c0' c1'
  have HD : Hid (Qs g w [q0, q1, q2, r3] { heap := y0.heap, tape := y0.tape, drawn := y0.drawn + 1, os := y0.os, output := y0.output }) := S.out.drewN 1
  clear S
  obtain ⟨z1, hz⟩ : ∃ z, z = ({ heap := y0.heap, tape := y0.tape, drawn := y0.drawn + 1, os := y0.os, output := y0.output } : World) := ⟨_, rfl⟩
  rw [← hz] at HD
  rw [← hz]
  clear hz
  obtain ⟨t, ht⟩ := HD.out.at_.2
  refine wpList_store_one rfl 24 (.tmp 36) (.tmp 34) rfl g 2 rfl .u64 _ rfl t _ ht size24 (by simp [ucs_len]) ?_
  intro y1 hh hg hz
  rw [V2.out, ucs_set] at hh
  have S : Hid (Qs g w [q0, q1, r2, r3] y1) := HD.out.set hg 2 r2 hh
  clear hh hg hz ht HD V2
  go_wp2_with fail
  have c0 := S.out.at_.cell 1 (by omega)
  have c1 := S.out.at_.cell 0 (by omega)
  simp only [List.getD_cons_zero, List.getD_cons_succ] at c0 c1
  have c0' : ({ heap := y1.heap, tape := y1.tape, drawn := y1.drawn + 1, os := y1.os, output := y1.output } : World).cell? ⟨g, 1, none⟩ = some (.int .u64 (q1 : Int)) := c0
  have c1' : ({ heap := y1.heap, tape := y1.tape, drawn := y1.drawn + 1, os := y1.os, output := y1.output } : World).cell? ⟨g, 0, none⟩ = some (.int .u64 (q0 : Int)) := c1
  go_still_tail 14, (by kernel_rfl)
  clear c0 c1 c0' c1'
  have HD : Hid (Qs g w [q0, q1, r2, r3] { heap := y1.heap, tape := y1.tape, drawn := y1.drawn + 1, os := y1.os, output := y1.output }) := S.out.drewN 1
  clear S
  obtain ⟨z2, hz⟩ : ∃ z, z = ({ heap := y1.heap, tape := y1.tape, drawn := y1.drawn + 1, os := y1.os, output := y1.output } : World) := ⟨_, rfl⟩
  rw [← hz] at HD
  rw [← hz]
  clear hz
  obtain ⟨t, ht⟩ := HD.out.at_.2
  refine wpList_store_one rfl 24 (.tmp 50) (.tmp 48) rfl g 1 rfl .u64 _ rfl t _ ht size24 (by simp [ucs_len]) ?_
  intro y2 hh hg hz
  rw [V1.out, ucs_set] at hh
  have S : Hid (Qs g w [q0, r1, r2, r3] y2) := HD.out.set hg 1 r1 hh
  clear hh hg hz ht HD V1
  go_wp2_with fail
  have c0 := S.out.at_.cell 0 (by omega)
  simp only [List.getD_cons_zero, List.getD_cons_succ] at c0
  have c0' : ({ heap := y2.heap, tape := y2.tape, drawn := y2.drawn + 1, os := y2.os, output := y2.output } : World).cell? ⟨g, 0, none⟩ = some (.int .u64 (q0 : Int)) := c0
  go_still_tail 7, (by kernel_rfl)
  clear c0 c0'
  have HD : Hid (Qs g w [q0, r1, r2, r3] { heap := y2.heap, tape := y2.tape, drawn := y2.drawn + 1, os := y2.os, output := y2.output }) := S.out.drewN 1
  clear S
  obtain ⟨z3, hz⟩ : ∃ z, z = ({ heap := y2.heap, tape := y2.tape, drawn := y2.drawn + 1, os := y2.os, output := y2.output } : World) := ⟨_, rfl⟩
  rw [← hz] at HD
  rw [← hz]
  clear hz
  obtain ⟨t, ht⟩ := HD.out.at_.2
  refine wpList_store_one rfl 24 (.tmp 57) (.tmp 55) rfl g 0 rfl .u64 _ rfl t _ ht size24 (by simp [ucs_len]) ?_
  intro y3 hh hg hz
  rw [V0.out, ucs_set] at hh
  have S : Hid (Qs g w [r0, r1, r2, r3] y3) := HD.out.set hg 0 r0 hh
  clear hh hg hz ht HD V0
  go_wp2_with fail
  go_ret
  exact ⟨congrArg (fun x => Ending.returned (.bool x)) VT.out, S.out.at_, S.out.keeps⟩

def val4 : List Nat → Nat
  | [a, b, c, d] => a + b * 18446744073709551616 + c * 340282366920938463463374607431768211456 + d * 6277101735386680763835789423207666416102355444464034512896
  | _ => 0
/-- Each of the four words fits. -/
def Q64 (o : List Nat) : Prop := o.length = 4 ∧ ∀ i, i < 4 → o.getD i 0 < 18446744073709551616
theorem q64 {o : List Nat} (h : Q64 o) : ∃ a b c d, o = [a, b, c, d] ∧ a < 18446744073709551616 ∧ b < 18446744073709551616 ∧ c < 18446744073709551616 ∧ d < 18446744073709551616 := by
  obtain ⟨hl, hb⟩ := h
  match o, hl with
  | [a, b, c, d], _ => exact ⟨a, b, c, d, rfl, hb 0 (by omega), hb 1 (by omega), hb 2 (by omega), hb 3 (by omega)⟩
theorem q64' {a b c d : Nat} (h : a < 18446744073709551616 ∧ b < 18446744073709551616 ∧ c < 18446744073709551616 ∧ d < 18446744073709551616) : Q64 [a, b, c, d] := by
  refine ⟨rfl, fun i hi => ?_⟩
  match i, hi with
  | 0, _ => exact h.1
  | 1, _ => exact h.2.1
  | 2, _ => exact h.2.2.1
  | 3, _ => exact h.2.2.2
theorem shl_or (a b : Nat) (hb : b < 18446744073709551616) : bits .or .u64 (IntKind.u64.wrap ((a : Int) * 2)) ((b : Int) / 9223372036854775808) = ((a * 2 % 18446744073709551616 + b / 9223372036854775808 : Nat) : Int) := by
  have e1 : IntKind.u64.wrap ((a : Int) * 2) = ((a * 2 % 18446744073709551616 : Nat) : Int) := by rw [IntKind.wrap_u64]; omega
  have e2 : (b : Int) / 9223372036854775808 = ((b / 9223372036854775808 : Nat) : Int) := by omega
  rw [e1, e2, u64_or_nat _ _ (mod64 _) (by omega)]
  congr 1
  have e3 : a * 2 % 18446744073709551616 = a % 9223372036854775808 * 2 ^ 1 := by omega
  rw [e3]
  exact or_add _ _ 1 (by omega)
/-- Shifted by one bit. -/
def shl4 : List Nat → List Nat
  | [a, b, c, d] => [a * 2 % 18446744073709551616, b * 2 % 18446744073709551616 + a / 9223372036854775808, c * 2 % 18446744073709551616 + b / 9223372036854775808, d * 2 % 18446744073709551616 + c / 9223372036854775808]
  | _ => []
def top4 : List Nat → Nat
  | [_, _, _, d] => d / 9223372036854775808
  | _ => 0
theorem shl4_val (o : List Nat) (h : Q64 o) : val4 o * 2 = top4 o * 115792089237316195423570985008687907853269984665640564039457584007913129639936 + val4 (shl4 o) ∧ Q64 (shl4 o) ∧ top4 o ≤ 1 := by
  obtain ⟨a, b, c, d, rfl, ha, hb, hc, hd⟩ := q64 h
  have ea : a * 2 % 18446744073709551616 = a % 9223372036854775808 * 2 := by omega
  have eb : b * 2 % 18446744073709551616 = b % 9223372036854775808 * 2 := by omega
  have ec : c * 2 % 18446744073709551616 = c % 9223372036854775808 * 2 := by omega
  have ed : d * 2 % 18446744073709551616 = d % 9223372036854775808 * 2 := by omega
  simp only [val4, shl4, top4, ea, eb, ec, ed]
  refine ⟨?_, q64' ?_, by omega⟩
  · have da := Nat.div_add_mod a 9223372036854775808
    have db := Nat.div_add_mod b 9223372036854775808
    have dc := Nat.div_add_mod c 9223372036854775808
    have dd := Nat.div_add_mod d 9223372036854775808
    clear ea eb ec ed h
    generalize a / 9223372036854775808 = a1 at *
    generalize a % 9223372036854775808 = a2 at *
    generalize b / 9223372036854775808 = b1 at *
    generalize b % 9223372036854775808 = b2 at *
    generalize c / 9223372036854775808 = c1 at *
    generalize c % 9223372036854775808 = c2 at *
    generalize d / 9223372036854775808 = d1 at *
    generalize d % 9223372036854775808 = d2 at *
    omega
  · omega
theorem val4_lt (o : List Nat) (h : Q64 o) : val4 o < 115792089237316195423570985008687907853269984665640564039457584007913129639936 := by
  obtain ⟨a, b, c, d, rfl, ha, hb, hc, hd⟩ := q64 h
  simp only [val4]
  omega
theorem shift_any (g : Nat) (o : List Nat) (w : World) (hw : QAt w g o) (ho : Q64 o) :
    Calls Try.prog 99 #[.pointer (some ⟨g, 0, none⟩)] w fun e w' => e = .returned (.bool (decide (top4 o = 1))) ∧ QAt w' g (shl4 o) ∧ Keeps (· = g) w w' := by
  obtain ⟨a, b, c, d, rfl, ha, hb, hc, hd⟩ := q64 ho
  refine shift_core g a b c d _ _ _ _ _ w (Lib.hid ⟨hw, Keeps.refl _ _⟩) ?_ (shl_or d c hc) (shl_or c b hb) (shl_or b a ha) ?_
  · show ((d : Int) / 9223372036854775808 == 1) = decide (d / 9223372036854775808 = 1)
    rw [Bool.eq_iff_iff]
    simp only [beq_iff_eq, decide_eq_true_eq]
    omega
  · exact Lib.hid (by rw [IntKind.wrap_u64]; omega)
end Go.Proofs.Ytgdimnbdnepbgaa
