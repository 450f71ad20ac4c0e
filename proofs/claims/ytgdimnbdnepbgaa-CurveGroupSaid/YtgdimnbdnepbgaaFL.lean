/- The field's mul, walked over variables. No statement is proved here. -/
import Derived.Test.YtgdimnbdnepbgaaFK
namespace Go.Proofs.Ytgdimnbdnepbgaa
open Go.RowKit
set_option linter.unusedVariables false
set_option maxRecDepth 40000

theorem WAt.drewN {w : World} {g : Nat} {o : List Nat} (h : WAt w g o) (n : Nat) : WAt (w.drewN n) g o := h
theorem WAt.drew1 {w : World} {g : Nat} {o : List Nat} (h : WAt w g o) : WAt { heap := w.heap, tape := w.tape, drawn := w.drawn + 1, os := w.os, output := w.output } g o := h
theorem NumAt.drew1 {w : World} {g : Nat} {l : List UInt8} (h : NumAt w g l) : NumAt { heap := w.heap, tape := w.tape, drawn := w.drawn + 1, os := w.os, output := w.output } g l := h

set_option maxHeartbeats 4000000 in
set_option maxRecDepth 100000 in
theorem mul_core (g ga gb : Nat) (o al : List Nat) (b0 b1 b2 b3 b4 c1 c2 c3 c4 H0 L0 H1 L1 H2 L2 H3 L3 H4 L4 y0 y1 y2 y3 y4 m0 r0 r1 r2 r3 r4 : Nat) (R : List Nat) (w : World)
    (HW : Hid (WAt w g o)) (HA : Hid (WAt w ga al)) (HB : Hid (WAt w gb [b0, b1, b2, b3, b4]))
    (C1 : Hid (IntKind.u64.wrap (19 * (b1 : Int)) = (c1 : Int))) (C2 : Hid (IntKind.u64.wrap (19 * (b2 : Int)) = (c2 : Int))) (C3 : Hid (IntKind.u64.wrap (19 * (b3 : Int)) = (c3 : Int))) (C4 : Hid (IntKind.u64.wrap (19 * (b4 : Int)) = (c4 : Int)))
    (S0 : Hid (∀ w', WAt w' ga al → Calls Try.prog 96 #[.pointer (some ⟨ga, 0, none⟩), .int .u64 b0, .int .u64 c4, .int .u64 c3, .int .u64 c2, .int .u64 c1] w' fun e w'' => e = .returned (.tuple #[.int .u64 H0, .int .u64 L0]) ∧ w'' = w'))
    (S1 : Hid (∀ w', WAt w' ga al → Calls Try.prog 96 #[.pointer (some ⟨ga, 0, none⟩), .int .u64 b1, .int .u64 b0, .int .u64 c4, .int .u64 c3, .int .u64 c2] w' fun e w'' => e = .returned (.tuple #[.int .u64 H1, .int .u64 L1]) ∧ w'' = w'))
    (S2 : Hid (∀ w', WAt w' ga al → Calls Try.prog 96 #[.pointer (some ⟨ga, 0, none⟩), .int .u64 b2, .int .u64 b1, .int .u64 b0, .int .u64 c4, .int .u64 c3] w' fun e w'' => e = .returned (.tuple #[.int .u64 H2, .int .u64 L2]) ∧ w'' = w'))
    (S3 : Hid (∀ w', WAt w' ga al → Calls Try.prog 96 #[.pointer (some ⟨ga, 0, none⟩), .int .u64 b3, .int .u64 b2, .int .u64 b1, .int .u64 b0, .int .u64 c4] w' fun e w'' => e = .returned (.tuple #[.int .u64 H3, .int .u64 L3]) ∧ w'' = w'))
    (S4 : Hid (∀ w', WAt w' ga al → Calls Try.prog 96 #[.pointer (some ⟨ga, 0, none⟩), .int .u64 b4, .int .u64 b3, .int .u64 b2, .int .u64 b1, .int .u64 b0] w' fun e w'' => e = .returned (.tuple #[.int .u64 H4, .int .u64 L4]) ∧ w'' = w'))
    (Y0 : Hid (∀ w, Calls Try.prog 97 #[.int .u64 H0, .int .u64 L0] w fun e w' => e = .returned (.int .u64 y0) ∧ w' = w))
    (Y1 : Hid (∀ w, Calls Try.prog 97 #[.int .u64 H1, .int .u64 L1] w fun e w' => e = .returned (.int .u64 y1) ∧ w' = w))
    (Y2 : Hid (∀ w, Calls Try.prog 97 #[.int .u64 H2, .int .u64 L2] w fun e w' => e = .returned (.int .u64 y2) ∧ w' = w))
    (Y3 : Hid (∀ w, Calls Try.prog 97 #[.int .u64 H3, .int .u64 L3] w fun e w' => e = .returned (.int .u64 y3) ∧ w' = w))
    (Y4 : Hid (∀ w, Calls Try.prog 97 #[.int .u64 H4, .int .u64 L4] w fun e w' => e = .returned (.int .u64 y4) ∧ w' = w))
    (V0 : Hid (bits .and .u64 (L0 : Int) 2251799813685247 = (m0 : Int)))
    (V1 : Hid (IntKind.u64.wrap (bits .and .u64 (L1 : Int) 2251799813685247 + (y0 : Int)) = (r1 : Int)))
    (V2 : Hid (IntKind.u64.wrap (bits .and .u64 (L2 : Int) 2251799813685247 + (y1 : Int)) = (r2 : Int)))
    (V3 : Hid (IntKind.u64.wrap (bits .and .u64 (L3 : Int) 2251799813685247 + (y2 : Int)) = (r3 : Int)))
    (V4 : Hid (IntKind.u64.wrap (bits .and .u64 (L4 : Int) 2251799813685247 + (y3 : Int)) = (r4 : Int)))
    (V5 : Hid (IntKind.u64.wrap ((m0 : Int) + IntKind.u64.wrap (19 * (y4 : Int))) = (r0 : Int)))
    (HR : Hid (∀ w', WAt w' g [r0, r1, r2, r3, r4] → Calls Try.prog 98 #[.pointer (some ⟨g, 0, none⟩)] w' (Sets g R w'))) :
    Calls Try.prog 74 #[.pointer (some ⟨g, 0, none⟩), .pointer (some ⟨ga, 0, none⟩), .pointer (some ⟨gb, 0, none⟩)] w (Sets g R w) := by
  have q0 := HB.out.cell 0 (by omega)
  have q1 := HB.out.cell 1 (by omega)
  have q2 := HB.out.cell 2 (by omega)
  have q3 := HB.out.cell 3 (by omega)
  have q4 := HB.out.cell 4 (by omega)
  simp only [List.getD_cons_zero, List.getD_cons_succ] at q0 q1 q2 q3 q4
  go_enter Try.func74, Try.ntmps74
  go_wp2_with fail
  go_quiet (fail)
  obtain ⟨wq, hwq⟩ : ∃ wq, wq = w.drewN nq := ⟨_, rfl⟩
  have HPq : Hid (Ps g w o wq) := by rw [hwq]; exact (Ps.mk HW.out (Keeps.refl _ _)).drewN nq
  have HAq : Hid (WAt wq ga al) := by rw [hwq]; exact HA.out.drewN nq
  rw [← hwq]
  clear hwq q0 q1 q2 q3 q4 HB HA HW
  go_wp2_with fail
  rw [C1.out, C2.out, C3.out, C4.out]
  clear C1 C2 C3 C4
  refine (S0.out _ HAq.out).mono ?_
  rintro e w' ⟨rfl, hw'⟩
  subst w'
  go_wp2_with fail
  refine (S1.out _ HAq.out).mono ?_
  rintro e w' ⟨rfl, hw'⟩
  subst w'
  go_wp2_with fail
  refine (S2.out _ HAq.out).mono ?_
  rintro e w' ⟨rfl, hw'⟩
  subst w'
  go_wp2_with fail
  refine (S3.out _ HAq.out).mono ?_
  rintro e w' ⟨rfl, hw'⟩
  subst w'
  go_wp2_with fail
  refine (S4.out _ HAq.out).mono ?_
  rintro e w' ⟨rfl, hw'⟩
  subst w'
  clear S0 S1 S2 S3 S4 HAq
  go_wp2_with ((with_reducible show wpList _ _ _ (⟨none, .store 24 (.tmp 107) (.tmp 105), _, _, _, _⟩ :: _) _ _); go_must (obtain ⟨t0, ht0⟩ := HPq.out.at_.2; refine wpList_store_one rfl 24 (.tmp 107) (.tmp 105) rfl g 0 rfl .u64 _ rfl t0 _ ht0 size24 (by simp only [List.size_toArray, ucs_len]; have := HPq.out.at_.1; omega) ?_; intro x0 hh hg hz; rw [V0.out, ucs_set] at hh; have P0 := Lib.hid (HPq.out.set hg 0 m0 hh); clear hh hg hz ht0 HPq V0))
  refine wp_region_still_tail 9 (by kernel_rfl) (by kernel_rfl) ?_
  simp only [List.take_succ_cons, List.take_zero, List.drop_succ_cons, List.drop_zero]
  repeat (first | still_step | (refine wpStill_step (fun K hK => ?_); go_simp; (with_reducible refine ⟨_, Y0.out _, hK _ ?_⟩); clear hK K))
  try refine wpStill_nil ?_
  have Q1 : Hid (Ps g w _ { heap := x0.heap, tape := x0.tape, drawn := x0.drawn + 1, os := x0.os, output := x0.output }) := P0.out.drewN 1
  clear P0 Y0
  generalize ({ heap := x0.heap, tape := x0.tape, drawn := x0.drawn + 1, os := x0.os, output := x0.output } : World) = z1 at *
  obtain ⟨t1, ht1⟩ := Q1.out.at_.2
  refine wpList_store_one rfl 24 (.tmp 116) (.tmp 114) rfl g 1 rfl .u64 _ rfl t1 _ ht1 size24 (by simp only [List.size_toArray, ucs_len]; have := Q1.out.at_.1; omega) ?_
  intro x1 hh hg hz
  rw [V1.out, ucs_set] at hh
  have P1 := Lib.hid (Q1.out.set hg 1 r1 hh)
  clear hh hg hz ht1 Q1 V1
  go_wp2_with fail
  refine wp_region_still_tail 9 (by kernel_rfl) (by kernel_rfl) ?_
  simp only [List.take_succ_cons, List.take_zero, List.drop_succ_cons, List.drop_zero]
  repeat (first | still_step | (refine wpStill_step (fun K hK => ?_); go_simp; (with_reducible refine ⟨_, Y1.out _, hK _ ?_⟩); clear hK K))
  try refine wpStill_nil ?_
  have Q2 : Hid (Ps g w _ { heap := x1.heap, tape := x1.tape, drawn := x1.drawn + 1, os := x1.os, output := x1.output }) := P1.out.drewN 1
  clear P1 Y1
  generalize ({ heap := x1.heap, tape := x1.tape, drawn := x1.drawn + 1, os := x1.os, output := x1.output } : World) = z2 at *
  obtain ⟨t2, ht2⟩ := Q2.out.at_.2
  refine wpList_store_one rfl 24 (.tmp 125) (.tmp 123) rfl g 2 rfl .u64 _ rfl t2 _ ht2 size24 (by simp only [List.size_toArray, ucs_len]; have := Q2.out.at_.1; omega) ?_
  intro x2 hh hg hz
  rw [V2.out, ucs_set] at hh
  have P2 := Lib.hid (Q2.out.set hg 2 r2 hh)
  clear hh hg hz ht2 Q2 V2
  go_wp2_with fail
  refine wp_region_still_tail 9 (by kernel_rfl) (by kernel_rfl) ?_
  simp only [List.take_succ_cons, List.take_zero, List.drop_succ_cons, List.drop_zero]
  repeat (first | still_step | (refine wpStill_step (fun K hK => ?_); go_simp; (with_reducible refine ⟨_, Y2.out _, hK _ ?_⟩); clear hK K))
  try refine wpStill_nil ?_
  have Q3 : Hid (Ps g w _ { heap := x2.heap, tape := x2.tape, drawn := x2.drawn + 1, os := x2.os, output := x2.output }) := P2.out.drewN 1
  clear P2 Y2
  generalize ({ heap := x2.heap, tape := x2.tape, drawn := x2.drawn + 1, os := x2.os, output := x2.output } : World) = z3 at *
  obtain ⟨t3, ht3⟩ := Q3.out.at_.2
  refine wpList_store_one rfl 24 (.tmp 134) (.tmp 132) rfl g 3 rfl .u64 _ rfl t3 _ ht3 size24 (by simp only [List.size_toArray, ucs_len]; have := Q3.out.at_.1; omega) ?_
  intro x3 hh hg hz
  rw [V3.out, ucs_set] at hh
  have P3 := Lib.hid (Q3.out.set hg 3 r3 hh)
  clear hh hg hz ht3 Q3 V3
  go_wp2_with fail
  refine wp_region_still_tail 9 (by kernel_rfl) (by kernel_rfl) ?_
  simp only [List.take_succ_cons, List.take_zero, List.drop_succ_cons, List.drop_zero]
  repeat (first | still_step | (refine wpStill_step (fun K hK => ?_); go_simp; (with_reducible refine ⟨_, Y3.out _, hK _ ?_⟩); clear hK K))
  try refine wpStill_nil ?_
  have Q4 : Hid (Ps g w _ { heap := x3.heap, tape := x3.tape, drawn := x3.drawn + 1, os := x3.os, output := x3.output }) := P3.out.drewN 1
  clear P3 Y3
  generalize ({ heap := x3.heap, tape := x3.tape, drawn := x3.drawn + 1, os := x3.os, output := x3.output } : World) = z4 at *
  obtain ⟨t4, ht4⟩ := Q4.out.at_.2
  refine wpList_store_one rfl 24 (.tmp 143) (.tmp 141) rfl g 4 rfl .u64 _ rfl t4 _ ht4 size24 (by simp only [List.size_toArray, ucs_len]; have := Q4.out.at_.1; omega) ?_
  intro x4 hh hg hz
  rw [V4.out, ucs_set] at hh
  have P4 := Lib.hid (Q4.out.set hg 4 r4 hh)
  clear hh hg hz ht4 Q4 V4
  go_wp2_with fail
  have HF : Hid (Ps g w [m0, r1, r2, r3, r4] x4) := by
    have h := P4.out
    have hl := h.at_.1
    simp only [List.length_set] at hl
    rw [five_set _ _ _ _ _ _ hl] at h
    exact h
  clear P4
  have hc := HF.out.at_.cell 0 (by omega)
  have hc' : ({ heap := x4.heap, tape := x4.tape, drawn := x4.drawn + 1, os := x4.os, output := x4.output } : World).cell? ⟨g, 0, none⟩ = some (.int .u64 (m0 : Int)) := HF.out.at_.cell 0 (by omega)
  simp only [List.getD_cons_zero] at hc
  refine wp_region_still_tail 11 (by kernel_rfl) (by kernel_rfl) ?_
  simp only [List.take_succ_cons, List.take_zero, List.drop_succ_cons, List.drop_zero]
  repeat (first | still_step | (refine wpStill_step (fun K hK => ?_); go_simp; (with_reducible refine ⟨_, Y4.out _, hK _ ?_⟩); clear hK K))
  try refine wpStill_nil ?_
  have Q5 : Hid (Ps g w _ { heap := x4.heap, tape := x4.tape, drawn := x4.drawn + 1, os := x4.os, output := x4.output }) := HF.out.drewN 1
  clear HF Y4 hc hc'
  generalize ({ heap := x4.heap, tape := x4.tape, drawn := x4.drawn + 1, os := x4.os, output := x4.output } : World) = z5 at *
  obtain ⟨t5, ht5⟩ := Q5.out.at_.2
  refine wpList_store_one rfl 24 (.tmp 154) (.tmp 152) rfl g 0 rfl .u64 _ rfl t5 _ ht5 size24 (by simp [ucs_len]) ?_
  intro x5 hh hg hz
  rw [V5.out, ucs_set] at hh
  have P5 := Lib.hid (Q5.out.set hg 0 r0 hh)
  clear hh hg hz ht5 Q5 V5
  go_wp2_with fail
  refine (HR.out _ P5.out.at_).mono ?_
  rintro e x6 ⟨rfl, ha, hk⟩
  have P6 : Hid (Ps g w R x6) := ⟨ha, P5.out.keeps.trans hk⟩
  clear ha hk P5 HR
  go_wp2_with fail
  refine bodyPost_end (results_none rfl _ _ _) rfl ?_
  exact ⟨rfl, P6.out.at_, P6.out.keeps⟩
end Go.Proofs.Ytgdimnbdnepbgaa
