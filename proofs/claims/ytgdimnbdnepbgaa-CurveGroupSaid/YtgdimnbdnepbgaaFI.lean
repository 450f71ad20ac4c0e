/- The field's sub. No statement is proved here. -/
import Derived.Test.YtgdimnbdnepbgaaFH
namespace Go.Proofs.Ytgdimnbdnepbgaa
open Go.RowKit
set_option linter.unusedVariables false
set_option maxRecDepth 40000

/-- The words of 4p. -/
def k4 (n : Nat) : Nat := if n = 0 then 9007199254740916 else 9007199254740988
/-- The first n words of b taken from those of o, 4p added. -/
def subk (o b : List Nat) : Nat → List Nat
  | 0 => o
  | n + 1 => (subk o b n).set n ((subk o b n).getD n 0 + (k4 n - b.getD n 0))
theorem subk_later (o b : List Nat) (n i : Nat) (h : n ≤ i) : (subk o b n).getD i 0 = o.getD i 0 := by
  induction n with
  | zero => rfl
  | succ n ih =>
    unfold subk
    simp only [List.getD_eq_getElem?_getD]
    rw [List.getElem?_set_ne (by omega)]
    have := ih (by omega)
    simpa [List.getD_eq_getElem?_getD] using this
theorem subk_val (o b : List Nat) (ho : o.length = 5) (hb : Bnd 9007199254740900 b) : val5 (subk o b 5) + val5 b = val5 o + 231584178474632390847141970017375815706539969331281128078915168015826259279796 ∧ ∀ i, i < 5 → (subk o b 5).getD i 0 ≤ o.getD i 0 + 9007199254740988 := by
  obtain ⟨hl, hlt⟩ := hb
  match o, b, ho, hl with
  | [a0, a1, a2, a3, a4], [b0, b1, b2, b3, b4], _, _ =>
    have h0 := hlt 0 (by omega)
    have h1 := hlt 1 (by omega)
    have h2 := hlt 2 (by omega)
    have h3 := hlt 3 (by omega)
    have h4 := hlt 4 (by omega)
    simp only [List.getD_cons_zero, List.getD_cons_succ] at h0 h1 h2 h3 h4
    have e : subk [a0, a1, a2, a3, a4] [b0, b1, b2, b3, b4] 5 = [a0 + (9007199254740916 - b0), a1 + (9007199254740988 - b1), a2 + (9007199254740988 - b2), a3 + (9007199254740988 - b3), a4 + (9007199254740988 - b4)] := rfl
    rw [e]
    refine ⟨by simp only [val5]; omega, fun i hi => ?_⟩
    match i, hi with
    | 0, _ => simp only [List.getD_cons_zero, List.getD_cons_succ]; omega
    | 1, _ => simp only [List.getD_cons_zero, List.getD_cons_succ]; omega
    | 2, _ => simp only [List.getD_cons_zero, List.getD_cons_succ]; omega
    | 3, _ => simp only [List.getD_cons_zero, List.getD_cons_succ]; omega
    | 4, _ => simp only [List.getD_cons_zero, List.getD_cons_succ]; omega
theorem sub_word (a c k : Nat) (hc : c ≤ k) (hk : k < 9223372036854775808) (ha : a < 9223372036854775808) :
    IntKind.u64.wrap ((a : Int) + IntKind.u64.wrap ((k : Int) - (c : Int))) = ((a + (k - c) : Nat) : Int) := by
  rw [IntKind.wrap_u64, IntKind.wrap_u64]; omega

set_option maxHeartbeats 800000 in
theorem sub_any (g gb : Nat) (o b : List Nat) (w : World) (hw : WAt w g o) (hwb : WAt w gb b) (hne : gb ≠ g) (ho : Bnd 9223372036854775808 o) (hb : Bnd 9007199254740900 b) :
    Calls Try.prog 72 #[.pointer (some ⟨g, 0, none⟩), .pointer (some ⟨gb, 0, none⟩)] w (Sets g (subk o b 5) w) := by
  have HO := Lib.hid ho
  have HB := Lib.hid hb
  have HNE := Lib.hid hne
  have HWB := Lib.hid hwb
  have HS : Hid (Ps g w (subk o b 0) w) := ⟨hw, Keeps.refl _ _⟩
  clear hw ho hwb hne hb
  have HC := Lib.hid (HS.out.at_.cell 0 (by omega))
  have HCB := Lib.hid (HWB.out.cell 0 (by omega))
  have HE : Hid (subk o b 1 = (subk o b 0).set 0 ((subk o b 0).getD 0 0 + (9007199254740916 - b.getD 0 0))) := rfl
  have HV : Hid (IntKind.u64.wrap (((subk o b 0).getD 0 0 : Int) + IntKind.u64.wrap ((9007199254740916 : Int) - (b.getD 0 0 : Int))) = (((subk o b 0).getD 0 0 + (9007199254740916 - b.getD 0 0) : Nat) : Int)) :=
    sub_word ((subk o b 0).getD 0 0) (b.getD 0 0) 9007199254740916 (by have := HB.out.2 0 (by omega); omega) (by omega) (by have := HO.out.2 0 (by omega); rw [subk_later o b 0 0 (by omega)]; exact this)
  have HL : Hid ((subk o b 0).length = 5) := HS.out.at_.1
  generalize hs0 : subk o b 0 = on at HC HE HV HL HS
  clear hs0
  generalize on.getD 0 0 = a at *
  generalize hb0 : b.getD 0 0 = c at HCB HE HV
  clear hb0
  go_enter Try.func72, Try.ntmps72
  have hc := HC.out
  have hcb := HCB.out
  have hc' : ({ heap := w.heap, tape := w.tape, drawn := w.drawn + 1, os := w.os, output := w.output } : World).cell? ⟨g, 0, none⟩ = some (.int .u64 (a : Int)) := hc
  have hcb' : ({ heap := w.heap, tape := w.tape, drawn := w.drawn + 1, os := w.os, output := w.output } : World).cell? ⟨gb, 0, none⟩ = some (.int .u64 (c : Int)) := hcb
  go_wp2_with fail
  go_still_tail 12, (by kernel_rfl)
  clear hc hcb hc' hcb' HC HCB
  have HD : Hid (Ps g w on { heap := w.heap, tape := w.tape, drawn := w.drawn + 1, os := w.os, output := w.output }) := HS.out.drewN 1
  clear HS
  generalize ({ heap := w.heap, tape := w.tape, drawn := w.drawn + 1, os := w.os, output := w.output } : World) = wd at *
  obtain ⟨t, ht⟩ := HD.out.at_.2
  refine wpList_store_one rfl 24 (.tmp 16) (.tmp 14) rfl g 0 rfl .u64 _ rfl t _ ht size24 (by simp only [List.size_toArray, ucs_len]; have := HL.out; omega) ?_
  intro w3 hh hg hz
  rw [HV.out, ucs_set] at hh
  have HP0 := Lib.hid (HD.out.set hg 0 _ hh)
  have HP : Hid (Ps g w (subk o b 1) w3) := by
    rw [HE.out]
    exact HP0
  clear hh hg hz ht HD HV HE HL HP0
  go_wp2_with fail
  go_loopw [4] (fun i wr => ∃ n : Nat, 1 ≤ n ∧ n ≤ 5 ∧ i = .int .i64 n ∧ Ps g w (subk o b n) wr) (fun i _ => 5 - (intOf i).toNat)
  case atStart => exact ⟨1, by omega, by omega, rfl, HP.out⟩
  case round =>
    obtain ⟨n, hn1, hn, rfl, hp⟩ := hrel
    have H := Lib.hid hp
    clear hp HP
    by_cases hlt : n < 5
    · have hni : (n : Int) < 5 := by omega
      have HC := Lib.hid (H.out.at_.cell n hlt)
      have HCB := Lib.hid ((HWB.out.keeps H.out.keeps HNE.out).cell n hlt)
      have HE : Hid (subk o b (n + 1) = (subk o b n).set n ((subk o b n).getD n 0 + (9007199254740988 - b.getD n 0))) := by
        have e : k4 n = 9007199254740988 := by unfold k4; rw [if_neg (by omega)]
        have e2 : subk o b (n + 1) = (subk o b n).set n ((subk o b n).getD n 0 + (k4 n - b.getD n 0)) := rfl
        rw [e] at e2
        exact e2
      have HV : Hid (IntKind.u64.wrap (((subk o b n).getD n 0 : Int) + IntKind.u64.wrap ((9007199254740988 : Int) - (b.getD n 0 : Int))) = (((subk o b n).getD n 0 + (9007199254740988 - b.getD n 0) : Nat) : Int)) :=
        sub_word ((subk o b n).getD n 0) (b.getD n 0) 9007199254740988 (by have := HB.out.2 n hlt; omega) (by omega) (by have := HO.out.2 n hlt; rw [subk_later o b n n (by omega)]; exact this)
      have HL : Hid ((subk o b n).length = 5) := H.out.at_.1
      clear HO HB
      generalize subk o b n = on at *
      generalize on.getD n 0 = a at *
      generalize b.getD n 0 = c at *
      have hc := HC.out
      have hcb := HCB.out
      go_wp2_with fail
      have hc' : ({ heap := wr.heap, tape := wr.tape, drawn := wr.drawn + 1, os := wr.os, output := wr.output } : World).cell? ⟨g, n, none⟩ = some (.int .u64 (a : Int)) := hc
      have hcb' : ({ heap := wr.heap, tape := wr.tape, drawn := wr.drawn + 1, os := wr.os, output := wr.output } : World).cell? ⟨gb, n, none⟩ = some (.int .u64 (c : Int)) := hcb
      go_still_tail 14, (by kernel_rfl)
      clear hc hcb hc' hcb' HC HCB
      have HD : Hid (Ps g w on { heap := wr.heap, tape := wr.tape, drawn := wr.drawn + 1, os := wr.os, output := wr.output }) := H.out.drewN 1
      clear H
      generalize ({ heap := wr.heap, tape := wr.tape, drawn := wr.drawn + 1, os := wr.os, output := wr.output } : World) = wd at *
      obtain ⟨t, ht⟩ := HD.out.at_.2
      refine wpList_store_one rfl 24 (.tmp 34) (.tmp 32) rfl g n rfl .u64 _ rfl t _ ht size24 (by simp only [List.size_toArray, ucs_len]; have := HL.out; omega) ?_
      intro w3 hh hg hz
      rw [HV.out, ucs_set] at hh
      have HP := Lib.hid (HD.out.set hg n _ hh)
      clear hh hg hz ht HD HV
      go_wp2
      refine ⟨⟨n + 1, by omega, by omega, by go_num, ?_⟩, by simp [intOf]; omega⟩
      rw [HE.out]
      exact HP.out
    · obtain rfl : n = 5 := by omega
      go_wp2
      refine bodyPost_end (results_none rfl _ _ _) rfl ?_
      exact ⟨rfl, H.out.at_, H.out.keeps⟩
end Go.Proofs.Ytgdimnbdnepbgaa
