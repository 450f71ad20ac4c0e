/- The field's add. No statement is proved here. -/
import Derived.Test.YtgdimnbdnepbgaaFG
namespace Go.Proofs.Ytgdimnbdnepbgaa
open Go.RowKit
set_option linter.unusedVariables false
set_option maxRecDepth 40000

theorem pass_val (o : List Nat) (h : o.length = 5) : val5 (passk o 5).1 + (passk o 5).2 * 57896044618658097711785492504343953926634992332820282019728792003956564819968 = val5 o := by
  match o, h with
  | [a, b, c, d, e], _ =>
    simp only [passk, pstep, List.set, List.getD_cons_zero, List.getD_cons_succ, val5, Nat.add_zero]
    omega
theorem pass_bnd (o : List Nat) (h : o.length = 5) : Bnd 2251799813685248 (passk o 5).1 := by
  refine ⟨(passk_len o 5).trans h, fun i hi => ?_⟩
  match o, h with
  | [a, b, c, d, e], _ =>
    simp only [passk, pstep, List.set, List.getD_cons_zero, List.getD_cons_succ, Nat.add_zero]
    match i, hi with
    | 0, _ => simp only [List.getD_cons_zero, List.getD_cons_succ]; exact Nat.mod_lt _ (by omega)
    | 1, _ => simp only [List.getD_cons_zero, List.getD_cons_succ]; exact Nat.mod_lt _ (by omega)
    | 2, _ => simp only [List.getD_cons_zero, List.getD_cons_succ]; exact Nat.mod_lt _ (by omega)
    | 3, _ => simp only [List.getD_cons_zero, List.getD_cons_succ]; exact Nat.mod_lt _ (by omega)
    | 4, _ => simp only [List.getD_cons_zero, List.getD_cons_succ]; exact Nat.mod_lt _ (by omega)

/-- The first n words of b added to those of o. -/
def addk (o b : List Nat) : Nat → List Nat
  | 0 => o
  | n + 1 => (addk o b n).set n ((addk o b n).getD n 0 + b.getD n 0)
theorem addk_later (o b : List Nat) (n i : Nat) (h : n ≤ i) : (addk o b n).getD i 0 = o.getD i 0 := by
  induction n with
  | zero => rfl
  | succ n ih =>
    unfold addk
    simp only [List.getD_eq_getElem?_getD]
    rw [List.getElem?_set_ne (by omega)]
    have := ih (by omega)
    simpa [List.getD_eq_getElem?_getD] using this
theorem addk_val (o b : List Nat) (ho : o.length = 5) (hb : b.length = 5) : val5 (addk o b 5) = val5 o + val5 b ∧ ∀ i, i < 5 → (addk o b 5).getD i 0 = o.getD i 0 + b.getD i 0 := by
  match o, b, ho, hb with
  | [a0, a1, a2, a3, a4], [b0, b1, b2, b3, b4], _, _ =>
    simp only [addk, List.set, List.getD_cons_zero, List.getD_cons_succ, val5]
    refine ⟨by omega, fun i hi => ?_⟩
    match i, hi with
    | 0, _ => rfl
    | 1, _ => rfl
    | 2, _ => rfl
    | 3, _ => rfl
    | 4, _ => rfl

set_option maxHeartbeats 800000 in
theorem add_any (g gb : Nat) (o b : List Nat) (w : World) (hw : WAt w g o) (hwb : WAt w gb b) (hne : gb ≠ g) (ho : Bnd 4611686018427387904 o) (hb : Bnd 4611686018427387904 b) :
    Calls Try.prog 70 #[.pointer (some ⟨g, 0, none⟩), .pointer (some ⟨gb, 0, none⟩)] w (Sets g (addk o b 5) w) := by
  have HO := Lib.hid ho
  have HB := Lib.hid hb
  have HNE := Lib.hid hne
  have HWB := Lib.hid hwb
  have HS : Hid (Ps g w (addk o b 0) w) := ⟨hw, Keeps.refl _ _⟩
  clear hw ho hwb hne hb
  go_enter Try.func70, Try.ntmps70
  go_wp2_with fail
  go_loopw [4, 5] (fun _ i wr => ∃ n : Nat, n ≤ 5 ∧ i = .int .i64 n ∧ Ps g w (addk o b n) wr) (fun _ i _ => 5 - (intOf i).toNat)
  case atStart => exact ⟨0, by omega, rfl, HS.out⟩
  case round =>
    obtain ⟨n, hn, rfl, hp⟩ := hrel
    have H := Lib.hid hp
    clear hp HS
    by_cases hlt : n < 5
    · have hni : (n : Int) < 5 := by omega
      have HC := Lib.hid (H.out.at_.cell n hlt)
      have HCB := Lib.hid ((HWB.out.keeps H.out.keeps HNE.out).cell n hlt)
      have HX : Hid ((addk o b n).getD n 0 + b.getD n 0 < 18446744073709551616) := by
        have h2 := addk_later o b n n (Nat.le_refl _)
        have h3 := HO.out.2 n hlt
        have h4 := HB.out.2 n hlt
        rw [h2]
        exact Lib.hid (by omega)
      have HE : Hid (addk o b (n + 1) = (addk o b n).set n ((addk o b n).getD n 0 + b.getD n 0)) := rfl
      have HL : Hid ((addk o b n).length = 5) := H.out.at_.1
      clear HO HB
      generalize addk o b n = on at *
      generalize on.getD n 0 = a at *
      generalize b.getD n 0 = c at *
      have HV : Hid (IntKind.u64.wrap ((a : Int) + (c : Int)) = ((a + c : Nat) : Int)) := by
        have := HX.out
        exact Lib.hid (by rw [IntKind.wrap_u64]; omega)
      have hc := HC.out
      have hcb := HCB.out
      clear HX
      go_wp2_with fail
      have hc' : ({ heap := wr.heap, tape := wr.tape, drawn := wr.drawn + 1, os := wr.os, output := wr.output } : World).cell? ⟨g, n, none⟩ = some (.int .u64 (a : Int)) := hc
      have hcb' : ({ heap := wr.heap, tape := wr.tape, drawn := wr.drawn + 1, os := wr.os, output := wr.output } : World).cell? ⟨gb, n, none⟩ = some (.int .u64 (c : Int)) := hcb
      go_still_tail 13, (by kernel_rfl)
      clear hc hcb hc' hcb' HC HCB
      have HD : Hid (Ps g w on { heap := wr.heap, tape := wr.tape, drawn := wr.drawn + 1, os := wr.os, output := wr.output }) := H.out.drewN 1
      clear H
      generalize ({ heap := wr.heap, tape := wr.tape, drawn := wr.drawn + 1, os := wr.os, output := wr.output } : World) = wd at *
      obtain ⟨t, ht⟩ := HD.out.at_.2
      refine wpList_store_one rfl 24 (.tmp 20) (.tmp 18) rfl g n rfl .u64 _ rfl t _ ht size24 (by simp only [List.size_toArray, ucs_len]; have := HL.out; omega) ?_
      intro w3 hh hg hz
      rw [HV.out, ucs_set] at hh
      have HP := Lib.hid (HD.out.set hg n _ hh)
      clear hh hg hz ht HD HV
      go_wp2
      refine ⟨⟨n + 1, by omega, by go_num, ?_⟩, by simp [intOf]; omega⟩
      rw [HE.out]
      exact HP.out
    · obtain rfl : n = 5 := by omega
      go_wp2
      refine bodyPost_end (results_none rfl _ _ _) rfl ?_
      exact ⟨rfl, H.out.at_, H.out.keeps⟩
end Go.Proofs.Ytgdimnbdnepbgaa
