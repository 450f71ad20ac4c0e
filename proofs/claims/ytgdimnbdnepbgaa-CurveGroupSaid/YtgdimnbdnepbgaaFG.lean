/- The field's pass. No statement is proved here. -/
import Derived.Test.YtgdimnbdnepbgaaFF
namespace Go.Proofs.Ytgdimnbdnepbgaa
open Go.RowKit
set_option linter.unusedVariables false
set_option maxRecDepth 40000

/-- One word cut, what is beyond carried. -/
def pstep (p : List Nat × Nat) (n : Nat) : List Nat × Nat := (p.1.set n ((p.1.getD n 0 + p.2) % 2251799813685248), (p.1.getD n 0 + p.2) / 2251799813685248)
def passk (o : List Nat) : Nat → List Nat × Nat
  | 0 => (o, 0)
  | n + 1 => pstep (passk o n) n
theorem passk_len (o : List Nat) (n : Nat) : (passk o n).1.length = o.length := by
  induction n with
  | zero => rfl
  | succ n ih => unfold passk pstep; simp [ih]
theorem passk_later (o : List Nat) (n i : Nat) (h : n ≤ i) : (passk o n).1.getD i 0 = o.getD i 0 := by
  induction n with
  | zero => rfl
  | succ n ih =>
    unfold passk pstep
    simp only [List.getD_eq_getElem?_getD]
    rw [List.getElem?_set_ne (by omega)]
    have := ih (by omega)
    simpa [List.getD_eq_getElem?_getD] using this
theorem passk_carry (o : List Nat) (ho : Bnd 9223372036854775808 o) (n : Nat) (hn : n ≤ 5) : (passk o n).2 ≤ 4096 := by
  induction n with
  | zero => simp [passk]
  | succ n ih =>
    have h1 := ih (by omega)
    have h2 := passk_later o n n (Nat.le_refl _)
    have h3 := ho.2 n (by omega)
    unfold passk pstep
    simp only [h2]
    omega

/-- The memory of pass. -/
structure Ps (g : Nat) (w : World) (o : List Nat) (w' : World) : Prop where
  at_ : WAt w' g o
  keeps : Keeps (· = g) w w'
theorem Ps.set {g : Nat} {w : World} {o : List Nat} {w' w'' : World} {t : TypeId} (h : Ps g w o w') (hg : w'.grownBy w'' (some g)) (i x : Nat) (hh : w''.heap[g]? = some (.cells (ucs (o.set i x)).toArray t (0, 0))) : Ps g w (o.set i x) w'' :=
  ⟨⟨by rw [List.length_set]; exact h.at_.1, t, hh⟩, h.keeps.trans (Keeps.of_grown hg (fun r hr => by injection hr with hr; exact hr.symm))⟩
theorem Ps.drewN {g : Nat} {w : World} {o : List Nat} {w' : World} (h : Ps g w o w') (n : Nat) : Ps g w o (w'.drewN n) :=
  ⟨h.at_, h.keeps.trans (Keeps.drewN _ _ _)⟩

set_option maxHeartbeats 800000 in
theorem pass_any (g : Nat) (o : List Nat) (w : World) (hw : WAt w g o) (ho : Bnd 9223372036854775808 o) :
    Calls Try.prog 106 #[.pointer (some ⟨g, 0, none⟩)] w fun e w' => e = .returned (.int .u64 (passk o 5).2) ∧ WAt w' g (passk o 5).1 ∧ Keeps (· = g) w w' := by
  have HO := Lib.hid ho
  have HS : Hid (Ps g w (passk o 0).1 w) := ⟨hw, Keeps.refl _ _⟩
  clear hw ho
  go_enter Try.func106, Try.ntmps106
  go_wp2_with fail
  go_loopw [3, 4, 5, 6] (fun c _ _ i wr => ∃ n : Nat, n ≤ 5 ∧ i = .int .i64 n ∧ c = .int .u64 (passk o n).2 ∧ Ps g w (passk o n).1 wr) (fun _ _ _ i _ => 5 - (intOf i).toNat)
  case atStart => exact ⟨0, by omega, rfl, rfl, HS.out⟩
  case round =>
    obtain ⟨n, hn, rfl, rfl, hp⟩ := hrel
    have H := Lib.hid hp
    clear hp HS
    by_cases hlt : n < 5
    · have hni : (n : Int) < 5 := by omega
      have HC := Lib.hid (H.out.at_.cell n hlt)
      have HX : Hid ((passk o n).1.getD n 0 + (passk o n).2 < 18446744073709551616) := by
        have h1 := passk_carry o HO.out n hn
        have h2 := passk_later o n n (Nat.le_refl _)
        have h3 := HO.out.2 n hlt
        rw [h2]
        exact Lib.hid (by omega)
      obtain ⟨on, cn, hpk⟩ : ∃ on cn, passk o n = (on, cn) := ⟨_, _, rfl⟩
      have HE : Hid (passk o (n + 1) = (on.set n ((on.getD n 0 + cn) % 2251799813685248), (on.getD n 0 + cn) / 2251799813685248)) := by
        show pstep (passk o n) n = _
        rw [hpk]
        rfl
      rw [hpk] at H HC HX ⊢
      have HL : Hid (on.length = 5) := H.out.at_.1
      clear hpk HO
      simp only at HX HC H
      generalize on.getD n 0 = a at *
      have HV : Hid (bits .and .u64 (IntKind.u64.wrap ((a : Int) + (cn : Int))) 2251799813685247 = (((a + cn) % 2251799813685248 : Nat) : Int)) := by
        have e : IntKind.u64.wrap ((a : Int) + (cn : Int)) = ((a + cn : Nat) : Int) := by rw [IntKind.wrap_u64]; have := HX.out; omega
        rw [e]
        exact and_mask _ HX.out
      have HV2 : Hid (IntKind.u64.wrap ((a : Int) + (cn : Int)) / 2251799813685248 = (((a + cn) / 2251799813685248 : Nat) : Int)) := by
        have e : IntKind.u64.wrap ((a : Int) + (cn : Int)) = ((a + cn : Nat) : Int) := by rw [IntKind.wrap_u64]; have := HX.out; omega
        rw [e]
        exact Lib.hid (by omega)
      obtain ⟨t, ht⟩ := H.out.at_.2
      have HT := Lib.hid ht
      clear ht HX
      have hc := HC.out
      go_wp2_with ((with_reducible show wpList _ _ _ (⟨none, .store 24 (.tmp 21) (.tmp 19), _, _, _, _⟩ :: _) _ _); refine wpList_store_one rfl 24 (.tmp 21) (.tmp 19) rfl g n rfl .u64 _ rfl t _ HT.out size24 (by simp only [List.size_toArray, ucs_len]; have := HL.out; omega) ?_; intro w3 hh3 hg3 hz3; have HH3 := Lib.hid hh3; have HG3 := Lib.hid hg3; clear hh3 hg3 hz3 hc HC HT)
      have HP : Hid (Ps g w (on.set n ((a + cn) % 2251799813685248)) w3) := by
        have hh := HH3.out
        rw [HV.out, ucs_set] at hh
        exact H.out.set HG3.out n _ hh
      rw [HV2.out]
      refine ⟨⟨n + 1, by omega, by go_num, ?_, ?_⟩, by simp [intOf]; omega⟩
      · rw [HE.out]
      · rw [HE.out]
        exact HP.out
    · obtain rfl : n = 5 := by omega
      go_wp2
      go_ret
      exact ⟨rfl, H.out.at_, H.out.keeps⟩
end Go.Proofs.Ytgdimnbdnepbgaa
