/- The curve's examples, Bytes and Read over points. No statement is proved here. -/
import Derived.Test.YtgdimnbdnepbgaaEL
namespace Go.Proofs.Ytgdimnbdnepbgaa
open Go.RowKit
set_option linter.unusedVariables false
set_option maxRecDepth 40000
set_option linter.unusedSimpArgs false

theorem bxN_lt : bxN < PP := by unfold bxN PP; omega
theorem byN_lt : byN < PP := by unfold byN PP; omega
def bX : Fin PP := ⟨bxN, bxN_lt⟩
def bY : Fin PP := ⟨byN, byN_lt⟩
theorem base_on : bY * bY - bX * bX = 1 + dF * (bX * bX * (bY * bY)) := by decide +kernel
noncomputable def bP : EC.Pt := ⟨(bX, bY), base_on⟩
theorem pBase (w : World) : Calls Try.prog 42 #[] w (Gives (vPt bP) w) := Base_any w
theorem across_any (k : Nat) (hk : PP = 8 * k + 5) (y : Fin PP) (w : World) :
    Calls Try.prog 78 #[vN y.val] w (Gives (.tuple #[vN (rt PP k ((y * y - 1) * fInv (dF * (y * y) + 1)).val).1, .bool (rt PP k ((y * y - 1) * fInv (dF * (y * y) + 1)).val).2]) w) := by
  have hA : ∀ w, Calls Try.prog 19 #[vN (dF * (y * y)).val, vN 1] w (Gives (vN (dF * (y * y) + 1).val) w) := fun w => by
    have h := fAdd (dF * (y * y)) 1 w
    rw [v1] at h
    exact h
  have hS : ∀ w, Calls Try.prog 21 #[vN (y * y).val, vN 1] w (Gives (vN (y * y - 1).val) w) := fun w => by
    have h := fSub (y * y) 1 w
    rw [v1] at h
    exact h
  have hR := Root_any k hk ((y * y - 1) * fInv (dF * (y * y) + 1)).val (fT _)
  generalize rt PP k ((y * y - 1) * fInv (dF * (y * y) + 1)).val = r at *
  exact across_core y.val _ _ _ _ _ _ _ r.1 r.2 w (Lib.hid fun w => Of_any 1 (by omega) w) (Lib.hid (fMul y y)) (Lib.hid fD) (Lib.hid (fMul _ _)) (Lib.hid hA) (Lib.hid (fInvC _)) (Lib.hid hS) (Lib.hid (fMul _ _)) (Lib.hid hR)
theorem rt_zero (k : Nat) : rt PP k 0 = (0, true) := by
  have h0 : (0 % PP) ^ (k + 1) % PP = 0 := by rw [Nat.zero_mod, Nat.zero_pow (by omega), Nat.zero_mod]
  unfold rt
  rw [h0, Nat.zero_mul, Nat.zero_mod, if_pos rfl]
  rfl
theorem oddOne_t : ((enc oddOne).getD 31 0).toNat = 128 := by decide +kernel
theorem oddOne_s : (enc oddOne).set 31 (UInt8.ofNat 0) = enc 1 := by decide +kernel
theorem clives_any (w : World) : Calls Try.prog 38 #[] w (Gives (.bool true) w) := by
  obtain ⟨k, hk⟩ := k_ex
  have hO : ∀ w, Calls Try.prog 31 #[vN bxN] w (Gives (.bool false) w) := fun w => by
    have h := Odd_any bxN (Nat.lt_trans bxN_lt PP_lt) w
    rw [show decide (bxN % PP % 2 = 1) = false from by decide +kernel] at h
    exact h
  have hB : ∀ w, Calls Try.prog 36 #[vR [bxN, byN]] w (Gives (.tuple #[vN byN, .int .i64 0]) w) := fun w =>
    Bytes_core bxN byN byN false w (Lib.hid (pCheck bP)) (Lib.hid hO) (Lib.hid (by simp)) (Lib.hid (by decide +kernel))
  have hA : ∀ w, Calls Try.prog 78 #[vN 1] w (Gives (.tuple #[vN 0, .bool true]) w) := fun w => by
    have h := across_any k hk 1 w
    have e : ((1 * 1 - 1) * fInv (dF * (1 * 1) + 1) : Fin PP) = 0 := by
      generalize fInv (dF * (1 * 1) + 1) = v
      grind
    rw [e, v0, rt_zero, v1] at h
    exact h
  have hC : ∀ w, Calls Try.prog 15 #[vN 1] w (Gives (.bool true) w) := fun w => by
    have h := fCanon 1 w
    rw [v1] at h
    exact h
  have hN : ∀ w, Calls Try.prog 23 #[vN 0] w (Gives (vN 0) w) := fun w => gives_N (by unfold PP; omega) (Neg_any 0 (by unfold TT; omega) w)
  have hR : ∀ w, Calls Try.prog 35 #[vN oddOne] w (Gives (.tuple #[vR [0, 0], .int .i64 4]) w) := fun w =>
    Read_core oddOne 1 0 0 128 0 0 0 4 true true true true w (Lib.hid oddOne_t) (Lib.hid (by decide +kernel)) (Lib.hid (by decide +kernel)) (Lib.hid (by omega)) (Lib.hid oddOne_s) (Lib.hid hC) (Lib.hid hA) (Lib.hid hN) (Lib.hid (eqN_same 0)) (Lib.hid (by simp))
  exact clives_core bxN byN oddOne w (Lib.hid Base_any) (Lib.hid hB) (Lib.hid hR) (Lib.hid rfl) (Lib.hid (by decide +kernel)) (Lib.hid fun i h1 h2 => (by decide +kernel : ∀ i, i < 32 → 1 ≤ i → ((enc byN).getD i 0).toNat = 102) i h2 h1)
end Go.Proofs.Ytgdimnbdnepbgaa
