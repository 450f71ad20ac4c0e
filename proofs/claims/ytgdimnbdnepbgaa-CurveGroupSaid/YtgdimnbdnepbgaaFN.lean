/- The field's least. No statement is proved here. -/
import Derived.Test.YtgdimnbdnepbgaaFM
namespace Go.Proofs.Ytgdimnbdnepbgaa
open Go.RowKit
set_option linter.unusedVariables false
set_option maxRecDepth 40000

/-- What the words and 19 have beyond 255 bits, word by word. -/
def ov (o : List Nat) : Nat → Nat
  | 0 => (o.getD 0 0 + 19) / 2251799813685248
  | n + 1 => (o.getD (n + 1) 0 + ov o n) / 2251799813685248
theorem ov_le (o : List Nat) (ho : Bnd 2251799813763072 o) : ∀ n, n ≤ 4 → ov o n ≤ 1
  | 0, _ => by
    have := ho.2 0 (by omega)
    unfold ov
    omega
  | n + 1, h => by
    have h1 := ho.2 (n + 1) (by omega)
    have h2 := ov_le o ho n (by omega)
    unfold ov
    omega
def leastW (o : List Nat) : List Nat := o.set 0 (o.getD 0 0 + 19 * ov o 4)
def leastL (o : List Nat) : List Nat := (passk (leastW (wrapL o)) 5).1

set_option maxHeartbeats 800000 in
theorem least_core (g : Nat) (o o1 R : List Nat) (w : World) (HW : Hid (Calls Try.prog 98 #[.pointer (some ⟨g, 0, none⟩)] w (Sets g o1 w))) (HB : Hid (Bnd 2251799813763072 o1))
    (HR : Hid (∀ w', WAt w' g (leastW o1) → Calls Try.prog 106 #[.pointer (some ⟨g, 0, none⟩)] w' fun e w'' => (∃ c : Nat, e = .returned (.int .u64 c)) ∧ WAt w'' g R ∧ Keeps (· = g) w' w'')) :
    Calls Try.prog 93 #[.pointer (some ⟨g, 0, none⟩)] w (Sets g R w) := by
  go_enter Try.func93, Try.ntmps93
  go_wp2_with fail
  refine (HW.out).mono ?_
  rintro e w1 ⟨rfl, hw, hk⟩
  have HS : Hid (Ps g w o1 w1) := ⟨hw, hk⟩
  clear hw hk HW
  have hc := HS.out.at_.cell 0 (by omega)
  have V0 : Hid (IntKind.u64.wrap ((o1.getD 0 0 : Nat) + 19) / 2251799813685248 = ((ov o1 0 : Nat) : Int)) := by
    have := HB.out.2 0 (by omega)
    unfold ov
    rw [IntKind.wrap_u64]
    exact Lib.hid (by omega)
  generalize hz : o1.getD 0 0 = x0 at hc V0
  have HX0 := Lib.hid hz
  clear hz
  go_wp2_with fail
  rw [V0.out]
  clear V0 hc
  go_loopw [2, 17] (fun c i wr => ∃ n : Nat, n ≤ 4 ∧ i = .int .i64 n ∧ c = .int .u64 (ov o1 n) ∧ wr = w1) (fun _ i _ => 4 - (intOf i).toNat)
  case atStart => exact ⟨0, by omega, rfl, rfl, rfl⟩
  case round =>
    obtain ⟨n, hn, rfl, rfl, hwr⟩ := hrel
    subst hwr
    by_cases hlt : n < 4
    · have hni : (n : Int) < 4 := by omega
      have hc := HS.out.at_.cell (1 + n) (by omega)
      have hV : IntKind.u64.wrap (((o1.getD (1 + n) 0 : Nat) : Int) + ((ov o1 n : Nat) : Int)) / 2251799813685248 = ((ov o1 (n + 1) : Nat) : Int) := by
        have h1 := HB.out.2 (n + 1) (by omega)
        have h2 := ov_le o1 HB.out n hn
        rw [Nat.add_comm 1 n]
        show _ = (((o1.getD (n + 1) 0 + ov o1 n) / 2251799813685248 : Nat) : Int)
        rw [IntKind.wrap_u64]
        omega
      have V := Lib.hid hV
      clear hV
      have HY : Hid (∃ z, z = ov o1 (n + 1)) := ⟨_, rfl⟩
      obtain ⟨y, hy⟩ := HY.out
      rw [← hy] at V
      have HYE := Lib.hid hy
      clear hy HY
      generalize o1.getD (1 + n) 0 = x at *
      generalize ov o1 n = c at *
      go_wp2_with fail
      refine ⟨⟨n + 1, by omega, by go_num, ?_, trivial⟩, by simp [intOf]; omega⟩
      rw [V.out, HYE.out]
    · obtain rfl : n = 4 := by omega
      have HV : Hid (IntKind.u64.wrap ((x0 : Int) + IntKind.u64.wrap (19 * ((ov o1 4 : Nat) : Int))) = ((x0 + 19 * ov o1 4 : Nat) : Int)) := by
        have h1 := HB.out.2 0 (by omega)
        rw [HX0.out] at h1
        have h2 := ov_le o1 HB.out 4 (by omega)
        rw [IntKind.wrap_u64, IntKind.wrap_u64]
        exact Lib.hid (by omega)
      have HE : Hid (leastW o1 = o1.set 0 (x0 + 19 * ov o1 4)) := by
        unfold leastW
        rw [HX0.out]
        exact Lib.hid rfl
      generalize leastW o1 = o2 at *
      generalize ov o1 4 = c at *
      have hc := HS.out.at_.cell 0 (by omega)
      rw [HX0.out] at hc
      have hc' : ({ heap := wr.heap, tape := wr.tape, drawn := wr.drawn + 1, os := wr.os, output := wr.output } : World).cell? ⟨g, 0, none⟩ = some (.int .u64 (x0 : Int)) := hc
      go_wp2_with fail
      go_still_tail 9, (by kernel_rfl)
      clear hc hc'
      have HD : Hid (Ps g w o1 { heap := wr.heap, tape := wr.tape, drawn := wr.drawn + 1, os := wr.os, output := wr.output }) := HS.out.drewN 1
      clear HS
      generalize ({ heap := wr.heap, tape := wr.tape, drawn := wr.drawn + 1, os := wr.os, output := wr.output } : World) = wd at *
      obtain ⟨t, ht⟩ := HD.out.at_.2
      refine wpList_store_one rfl 24 (.tmp 34) (.tmp 32) rfl g 0 rfl .u64 _ rfl t _ ht size24 (by simp only [List.size_toArray, ucs_len]; have := HD.out.at_.1; omega) ?_
      intro w3 hh hg hz
      rw [HV.out, ucs_set] at hh
      have HP0 := Lib.hid (HD.out.set hg 0 _ hh)
      rw [← HE.out] at HP0
      clear hh hg hz ht HD HV HE
      go_wp2_with fail
      refine (HR.out _ HP0.out.at_).mono ?_
      rintro e w4 ⟨⟨c', rfl⟩, ha, hk⟩
      have HF : Hid (Ps g w R w4) := ⟨ha, HP0.out.keeps.trans hk⟩
      clear ha hk HP0 HR
      go_wp2_with fail
      refine bodyPost_end (results_none rfl _ _ _) rfl ?_
      exact ⟨rfl, HF.out.at_, HF.out.keeps⟩

theorem leastW_bnd (o : List Nat) (ho : Bnd 2251799813763072 o) : Bnd 9223372036854775808 (leastW o) := by
  have h1 := ov_le o ho 4 (by omega)
  unfold leastW
  generalize ov o 4 = c at *
  obtain ⟨a0, a1, a2, a3, a4, rfl, h⟩ := bnd5 ho
  simp only [List.set, List.getD_cons_zero]
  exact bnd5' (by omega)
theorem least_any (g : Nat) (o : List Nat) (w : World) (hw : WAt w g o) (ho : Bnd 9223372036854775808 o) :
    Calls Try.prog 93 #[.pointer (some ⟨g, 0, none⟩)] w (Sets g (leastL o) w) := by
  obtain ⟨q, _, hb, _⟩ := wrap_val o ho
  refine least_core g o (wrapL o) (leastL o) w (wrap_any g o w hw ho) hb ?_
  exact Lib.hid fun w' h => (pass_any g _ w' h (leastW_bnd _ hb)).mono fun e w'' h => ⟨⟨_, h.1⟩, h.2⟩
theorem ov_val (o : List Nat) (ho : o.length = 5) : ov o 4 = (val5 o + 19) / 57896044618658097711785492504343953926634992332820282019728792003956564819968 := by
  match o, ho with
  | [a0, a1, a2, a3, a4], _ =>
    simp only [ov, List.getD_cons_zero, List.getD_cons_succ, val5]
    omega
theorem val_lt (o : List Nat) (hb : Bnd 2251799813685248 o) : val5 o < 57896044618658097711785492504343953926634992332820282019728792003956564819968 := by
  obtain ⟨x0, x1, x2, x3, x4, rfl, h⟩ := bnd5 hb
  simp only [val5]
  omega
theorem least_val (o : List Nat) (ho : Bnd 9223372036854775808 o) :
    val5 (leastL o) = val5 o % 57896044618658097711785492504343953926634992332820282019728792003956564819949 ∧ Bnd 2251799813685248 (leastL o) := by
  obtain ⟨q, hq, hb, hlt⟩ := wrap_val o ho
  have h1 := ov_val (wrapL o) hb.1
  have h2 : val5 (leastW (wrapL o)) = val5 (wrapL o) + 19 * ov (wrapL o) 4 := set0_val _ _ hb.1
  have h3 := pass_val (leastW (wrapL o)) (leastW_bnd _ hb).1
  have h4 := pass_bnd (leastW (wrapL o)) (leastW_bnd _ hb).1
  have h5 := val_lt _ h4
  refine ⟨?_, h4⟩
  rw [← hq, Nat.add_mul_mod_self_right]
  show val5 (passk (leastW (wrapL o)) 5).1 = _
  rw [h2] at h3
  generalize val5 (passk (leastW (wrapL o)) 5).1 = r at *
  generalize (passk (leastW (wrapL o)) 5).2 = c at *
  generalize val5 (wrapL o) = v at *
  generalize ov (wrapL o) 4 = u at *
  clear hq hb h2
  have hu : u = 0 ∨ u = 1 := by omega
  have hc : c = 0 ∨ c = 1 := by omega
  have hv : v / 57896044618658097711785492504343953926634992332820282019728792003956564819949 = u := by omega
  have hm := Nat.div_add_mod v 57896044618658097711785492504343953926634992332820282019728792003956564819949
  rw [hv] at hm
  generalize v % 57896044618658097711785492504343953926634992332820282019728792003956564819949 = m at *
  rcases hu with rfl | rfl <;> rcases hc with rfl | rfl <;> omega
end Go.Proofs.Ytgdimnbdnepbgaa
