/- The field's functions in numbers. No statement is proved here. -/
import Derived.Test.YtgdimnbdnepbgaaFZ
import Derived.Test.YtgdimnbdnepbgaaNU
namespace Go.Proofs.Ytgdimnbdnepbgaa
open Go.RowKit
set_option linter.unusedVariables false
set_option maxRecDepth 40000

theorem prP : Pr PP := pr_57896044618658097711785492504343953926634992332820282019728792003956564819949
theorem PP_lt : PP < TT := by unfold PP TT; omega
theorem modP (x : Nat) : x % PP < PP := Nat.mod_lt _ (by unfold PP; omega)
theorem modT (x : Nat) : x % PP < TT := Nat.lt_trans (modP x) PP_lt
theorem subT (a : Nat) : PP - a % PP < TT := Nat.lt_of_le_of_lt (Nat.sub_le _ _) PP_lt

theorem Canon_any (a : Nat) (ha : a < TT) (w : World) : Calls Try.prog 15 #[vN a] w (Gives (.bool (decide (a = a % PP))) w) :=
  Canon_core a (a % PP) _ w (Lib.hid fun w => Rest_any a ha w) (Lib.hid fun w => eqN a _ ha (modT a) w)
theorem Neg_any (a : Nat) (ha : a < TT) (w : World) : Calls Try.prog 23 #[vN a] w (Gives (vN ((PP - a % PP) % PP)) w) := by
  have h : ∀ w, Calls Try.prog 21 #[vN 0, vN a] w (Gives (vN ((0 + (PP - a % PP)) % PP)) w) := fun w => Sub_any 0 a (by unfold TT; omega) ha w
  rw [Nat.zero_add] at h
  exact Neg_core a _ w (Lib.hid h)
theorem index_first (r : Nat) (w : World) : (Instr.index 23 (vN r) (.int .i64 0)).run Try.prog w = .ok (.int .u8 ((r % 256 : Nat) : Int)) w := by
  have h : (Instr.index 23 (vN r) (.int .i64 0)).run Try.prog w = .ok (.int .u8 ((UInt8.ofNat (r % 18446744073709551616)).toNat : Int)) w := by kernel_rfl
  rw [h, of_byte, Nat.mod_mod_of_dvd _ ⟨72057594037927936, by decide⟩]
theorem and_one : ∀ x : Nat, x < 256 → (bits .and .u8 (x : Int) 1 == 1) = decide (x % 2 = 1) := by decide +kernel
theorem Odd_any (a : Nat) (ha : a < TT) (w : World) : Calls Try.prog 31 #[vN a] w (Gives (.bool (decide (a % PP % 2 = 1))) w) := by
  refine Odd_core a (a % PP) _ w (Lib.hid fun w => Rest_any a ha w) (Lib.hid fun w => index_first _ w) ?_
  have h := and_one (a % PP % 256) (Nat.mod_lt _ (by omega))
  rw [show a % PP % 256 % 2 = a % PP % 2 from Nat.mod_mod_of_dvd _ ⟨128, by decide⟩] at h
  exact Lib.hid h
theorem Same_any (a b : Nat) (ha : a < TT) (hb : b < TT) (w : World) : Calls Try.prog 33 #[vN a, vN b] w (Gives (.bool (decide (a % PP = b % PP))) w) :=
  Same_core a b (a % PP) (b % PP) _ w (Lib.hid fun w => Rest_any a ha w) (Lib.hid fun w => Rest_any b hb w) (Lib.hid fun w => eqN _ _ (modT a) (modT b) w)
theorem Inv_any (q : Nat) (hq : PP = q + 2) (a : Nat) (ha : a < TT) (w : World) : Calls Try.prog 29 #[vN a] w (Gives (vN (a ^ q % PP)) w) := by
  have h : ∀ w, Calls Try.prog 61 #[.int .u8 235, .int .u8 127] w (Gives (vN q) w) := fun w => by
    have h := ones_inv w
    rw [show PP - 2 = q from by omega] at h
    exact h
  exact Inv_core a q _ w (Lib.hid h) (Lib.hid fun w => Pow_any a q ha (by have := PP_lt; omega) w)
theorem even_any (a : Nat) (ha : a < PP) (w : World) : Calls Try.prog 62 #[vN a] w (Gives (vN (evn PP a)) w) := by
  have hm : a % PP = a := Nat.mod_eq_of_lt ha
  refine even_core a ((PP - a % PP) % PP) _ (decide (a % PP % 2 = 1)) w (Lib.hid fun w => Odd_any a (Nat.lt_trans ha PP_lt) w) (Lib.hid fun w => Neg_any a (Nat.lt_trans ha PP_lt) w) ?_
  rw [hm]
  unfold evn
  by_cases h : a % 2 = 1
  · exact Lib.hid (by simp [h])
  · exact Lib.hid (by simp [h])
theorem quarter_any (k : Nat) (hk : PP = 8 * k + 5) (w : World) : Calls Try.prog 61 #[.int .u8 251, .int .u8 31] w (Gives (vN (2 * k + 1)) w) := by
  have h := ones_quarter w
  rw [show 14474011154664524427946373126085988481658748083205070504932198000989141204987 = 2 * k + 1 from by unfold PP at hk; omega] at h
  exact h
theorem eighth_any (k : Nat) (hk : PP = 8 * k + 5) (w : World) : Calls Try.prog 61 #[.int .u8 254, .int .u8 15] w (Gives (vN (k + 1)) w) := by
  have h := ones_root w
  rw [show 7237005577332262213973186563042994240829374041602535252466099000494570602494 = k + 1 from by unfold PP at hk; omega] at h
  exact h
theorem minusOne_any (k : Nat) (hk : PP = 8 * k + 5) (w : World) : Calls Try.prog 63 #[] w (Gives (vN (2 ^ (2 * k + 1) % PP)) w) :=
  rootOfMinusOne_core (2 * k + 1) _ w (Lib.hid fun w => Of_any 2 (by omega) w) (Lib.hid (quarter_any k hk)) (Lib.hid fun w => Pow_any 2 (2 * k + 1) (by unfold TT; omega) (by have := PP_lt; omega) w)
theorem Root_any (k : Nat) (hk : PP = 8 * k + 5) (a : Nat) (ha : a < TT) (w : World) : Calls Try.prog 11 #[vN a] w (Gives (.tuple #[vN (rt PP k a).1, .bool (rt PP k a).2]) w) := by
  have hO := eighth_any k hk
  have hP : ∀ w, Calls Try.prog 27 #[vN (a % PP), vN (k + 1)] w (Gives (vN ((a % PP) ^ (k + 1) % PP)) w) := fun w => Pow_any (a % PP) (k + 1) (modT a) (by have := PP_lt; omega) w
  have hN : ∀ w, Calls Try.prog 23 #[vN (a % PP)] w (Gives (vN ((PP - a % PP) % PP)) w) := fun w => by
    have h := Neg_any (a % PP) (modT a) w
    rw [Nat.mod_mod] at h
    exact h
  have hX : ((rt PP k a).1, (rt PP k a).2) = (if decide ((a % PP) ^ (k + 1) % PP * ((a % PP) ^ (k + 1) % PP) % PP = a % PP) = true then (evn PP ((a % PP) ^ (k + 1) % PP), true)
      else if decide ((a % PP) ^ (k + 1) % PP * ((a % PP) ^ (k + 1) % PP) % PP = (PP - a % PP) % PP) = true then (evn PP ((a % PP) ^ (k + 1) % PP * (2 ^ (2 * k + 1) % PP) % PP), true) else (0, false)) := by
    simp only [decide_eq_true_eq]
    rfl
  have hr : (a % PP) ^ (k + 1) % PP < PP := modP _
  have hi : 2 ^ (2 * k + 1) % PP < PP := modP _
  have h36 := minusOne_any k hk
  generalize (rt PP k a).1 = x at *
  generalize (rt PP k a).2 = ok at *
  generalize (a % PP) ^ (k + 1) % PP = r at *
  generalize 2 ^ (2 * k + 1) % PP = i at *
  exact Root_core a (a % PP) (k + 1) r (r * r % PP) ((PP - a % PP) % PP) i (r * i % PP) _ _ x _ _ ok w (Lib.hid fun w => Rest_any a ha w) (Lib.hid hO) (Lib.hid hP) (Lib.hid fun w => Mul_any r r (Nat.lt_trans hr PP_lt) (Nat.lt_trans hr PP_lt) w)
    (Lib.hid fun w => eqN _ _ (modT _) (modT _) w) (Lib.hid fun w => even_any r hr w) (Lib.hid hN) (Lib.hid fun w => eqN _ _ (modT _) (modT _) w) (Lib.hid h36)
    (Lib.hid fun w => Mul_any r i (Nat.lt_trans hr PP_lt) (Nat.lt_trans hi PP_lt) w) (Lib.hid fun w => even_any _ (modP _) w) (Lib.hid hX)
theorem htwo (k : Nat) (hk : PP = 8 * k + 5) : 2 ^ (4 * k + 2) % PP = PP - 1 := by
  rw [show 4 * k + 2 = 28948022309329048855892746252171976963317496166410141009864396001978282409974 from by unfold PP at hk; omega]
  have h := pm_eq PP 2 256 28948022309329048855892746252171976963317496166410141009864396001978282409974 (by decide)
  have e : pm PP 2 256 28948022309329048855892746252171976963317496166410141009864396001978282409974 = PP - 1 := by decide +kernel
  exact h.symm.trans e
end Go.Proofs.Ytgdimnbdnepbgaa
