/- Points compared; the curve's functions over points. No statement is proved here. -/
import Derived.Test.YtgdimnbdnepbgaaEK
namespace Go.Proofs.Ytgdimnbdnepbgaa
open Go.RowKit
set_option linter.unusedVariables false
set_option maxRecDepth 40000
set_option linter.unusedSimpArgs false

theorem keyLits35 (m n : Nat) : Try.prog.keyLits 3 35 (vR [m, n]).cells.toList = some ((encs [m, n]).map fun b => Lit.int .u8 (b.toNat : Int)) := by
  have hc : (vR [m, n]).cells.toList = bcs (encs [m, n]) := rfl
  have hlen : (bcs (encs [m, n])).length = 64 := by rw [bcs_len, encs_len]; rfl
  have h35 : Try.prog.cellsOf 35 = 64 := by kernel_rfl
  have h23 : Try.prog.cellsOf 23 = 32 := by kernel_rfl
  have e1 : ((bcs (encs [m, n])).drop 0).take 32 = bcs (enc m) := by
    rw [List.drop_zero, encs, bcs_append, List.take_append_of_le_length (by rw [bcs_enc_len]; omega), List.take_of_length_le (by rw [bcs_enc_len]; omega)]
  have e2 : ((bcs (encs [m, n])).drop 32).take 32 = bcs (enc n) := by
    rw [encs, bcs_append, List.drop_append_of_le_length (by rw [bcs_enc_len]; omega), List.drop_of_length_le (by rw [bcs_enc_len]; omega), List.nil_append, encs_one, List.take_of_length_le (by rw [bcs_enc_len]; omega)]
  have k1 := keyLits23 (enc m) (enc_len m)
  have k2 := keyLits23 (enc n) (enc_len n)
  rw [show (Value.agg (bcs (enc m)).toArray).cells.toList = bcs (enc m) from rfl] at k1
  rw [show (Value.agg (bcs (enc n)).toArray).cells.toList = bcs (enc n) from rfl] at k2
  rw [hc]
  unfold Program.keyLits
  rw [Try.underlying35]
  simp only [hlen, h35, h23]
  rw [if_pos ⟨trivial, by kernel_rfl⟩]
  simp only [List.mapM_cons, List.mapM_nil, h23, e1, e2, k1, k2]
  show some (List.flatten [_, _]) = _
  rw [encs, encs_one, List.map_append]
  simp
theorem eqP (m n m' n' : Nat) (hm : m < TT) (hn : n < TT) (hm' : m' < TT) (hn' : n' < TT) (w : World) : (Op.equalIn 10000 35 (vR [m, n]) (vR [m', n'])).run Try.prog w = .ok (decide (m = m' ∧ n = n')) w := by
  have hk : Try.prog.keyTypeAt 3 35 = true := by kernel_rfl
  have hf : ∀ m n, (vR [m, n]).formed Try.prog 35 = true := by
    intro m n
    have hc : Try.prog.cellsOf 35 = 64 := by kernel_rfl
    have hl : (bcs (encs [m, n])).length = 64 := by rw [bcs_len, encs_len]; rfl
    simp [Value.formed, vR, hc, hl]
  obtain ⟨r, hr, hiff⟩ := run_equalIn_deep (P := Try.prog) 9997 3 35 hk w 3 3 _ _ _ _ (hf m n) (hf m' n') (keyLits35 m n) (keyLits35 m' n')
  rw [hr]
  congr 1
  have hl : encs [m, n] = encs [m', n'] ↔ m = m' ∧ n = n' := by
    constructor
    · intro h
      have h2 := List.append_inj h (by rw [enc_len, enc_len])
      refine ⟨enc_inj hm hm' h2.1, enc_inj hn hn' ?_⟩
      have h3 := h2.2
      rw [encs_one, encs_one] at h3
      exact h3
    · rintro ⟨rfl, rfl⟩; rfl
  by_cases h : m = m' ∧ n = n'
  · rw [decide_eq_true h]
    exact hiff.2 (by rw [hl.2 h])
  · rw [decide_eq_false h]
    cases r
    · rfl
    · exact absurd (hl.1 (lits_inj _ _ (hiff.1 rfl))) h
/-- A point's value. -/
def vPt (p : EC.Pt) : Value := vR [p.1.1.val, p.1.2.val]
noncomputable instance : DecidableEq EC.Pt := fun a b => Classical.propDecidable _
theorem pEq (p q : EC.Pt) (w : World) : (Op.equalIn 10000 35 (vPt p) (vPt q)).run Try.prog w = .ok (decide (p = q)) w := by
  unfold vPt
  rw [eqP _ _ _ _ (fT _) (fT _) (fT _) (fT _) w]
  congr 1
  rw [Bool.eq_iff_iff, decide_eq_true_eq, decide_eq_true_eq]
  constructor
  · rintro ⟨h1, h2⟩
    exact Subtype.ext (Prod.ext (Fin.ext h1) (Fin.ext h2))
  · rintro rfl
    exact ⟨rfl, rfl⟩
/-- The residue of any number. -/
def fO (n : Nat) : Fin PP := Fin.ofNat PP n
theorem fO_val (n : Nat) : (fO n).val = n % PP := rfl
theorem fO_of (a : Fin PP) : fO a.val = a := Fin.ext (Nat.mod_eq_of_lt a.isLt)
theorem fO_lt {n : Nat} (h : n < PP) : (fO n).val = n := Nat.mod_eq_of_lt h
def onB (X Y : Nat) : Bool := decide (fO Y * fO Y - fO X * fO X = 1 + dF * (fO X * fO X * (fO Y * fO Y)))
theorem rawMul (a b : Nat) (ha : a < TT) (hb : b < TT) (w : World) : Calls Try.prog 25 #[vN a, vN b] w (Gives (vN (fO a * fO b).val) w) :=
  gives_N (by rw [Fin.val_mul, fO_val, fO_val, ← Nat.mul_mod]) (Mul_any a b ha hb w)
theorem onCurve_any (X Y : Nat) (hX : X < TT) (hY : Y < TT) (w : World) : Calls Try.prog 79 #[vR [X, Y]] w (Gives (.bool (onB X Y)) w) :=
  onCurve_core X Y _ _ _ _ _ _ _ _ w (Lib.hid (rawMul X X hX hX)) (Lib.hid (rawMul Y Y hY hY)) (Lib.hid (fSub _ _)) (Lib.hid fun w => Of_any 1 (by omega) w) (Lib.hid fD) (Lib.hid (fMul _ _)) (Lib.hid (fMul _ _)) (Lib.hid fun w => by have h := fAdd 1 (dF * (fO X * fO X * (fO Y * fO Y))) w; rw [v1] at h; exact h) (Lib.hid (fEq _ _))
/-- What Check tells. -/
def chk (X Y : Nat) : Int := if decide (X = X % PP) && (decide (Y = Y % PP) && onB X Y) then 0 else 2
theorem Check_any (X Y : Nat) (hX : X < TT) (hY : Y < TT) (w : World) : Calls Try.prog 40 #[vR [X, Y]] w (Gives (.int .i64 (chk X Y)) w) :=
  Check_core X Y _ _ _ _ w (Lib.hid rfl) (Lib.hid (Canon_any X hX)) (Lib.hid (Canon_any Y hY)) (Lib.hid (onCurve_any X Y hX hY))
theorem chk_two (X Y : Nat) : chk X Y = 0 ∨ chk X Y = 2 := by
  unfold chk
  split
  · exact .inl rfl
  · exact .inr rfl
theorem chk_zero (X Y : Nat) (h : chk X Y = 0) : ∃ p : EC.Pt, vR [X, Y] = vPt p ∧ p.1.1.val = X ∧ p.1.2.val = Y := by
  unfold chk at h
  by_cases hc : (decide (X = X % PP) && (decide (Y = Y % PP) && onB X Y)) = true
  · simp only [Bool.and_eq_true, decide_eq_true_eq] at hc
    obtain ⟨h1, h2, h3⟩ := hc
    unfold onB at h3
    rw [decide_eq_true_eq] at h3
    have k1 : (fO X).val = X := by rw [fO_val, ← h1]
    have k2 : (fO Y).val = Y := by rw [fO_val, ← h2]
    exact ⟨⟨(fO X, fO Y), h3⟩, by unfold vPt; rw [k1, k2], k1, k2⟩
  · rw [if_neg hc] at h
    exact absurd h (by decide)
theorem chk_pt (p : EC.Pt) : chk p.1.1.val p.1.2.val = 0 := by
  unfold chk
  rw [if_pos]
  have h := p.2
  unfold Ed.On at h
  rw [Nat.mod_eq_of_lt p.1.1.isLt, Nat.mod_eq_of_lt p.1.2.isLt, decide_eq_true rfl, decide_eq_true rfl]
  unfold onB
  rw [fO_of, fO_of]
  simp only [Bool.true_and, decide_eq_true_eq]
  exact h
theorem pCheck (p : EC.Pt) (w : World) : Calls Try.prog 40 #[vPt p] w (Gives (.int .i64 0) w) := by
  have h := Check_any _ _ (fT p.1.1) (fT p.1.2) w
  rw [chk_pt] at h
  exact h
theorem pZero (w : World) : Calls Try.prog 39 #[] w (Gives (vPt EC.zero) w) := gives_V (by unfold vPt Ed.zero; rw [v1]; rfl) (Zero_any w)
/-- A point with Z 1. -/
def X4.of (p : EC.Pt) : X4 := ⟨p.1.1, p.1.2, 1, p.1.1 * p.1.2⟩
theorem F_mul_one (a : Fin PP) : a * 1 = a := by grind
theorem X4.of_is (p : EC.Pt) : (X4.of p).Is p.1.1 p.1.2 := ⟨one_ne, (F_mul_one _).symm, (F_mul_one _).symm, (F_mul_one _).symm⟩
theorem of_l (p : EC.Pt) : (X4.of p).l = [p.1.1.val, p.1.2.val, 1, (p.1.1 * p.1.2).val] := by unfold X4.l X4.of; simp only [v1]
theorem pAdd (p q : EC.Pt) (w : World) : Calls Try.prog 44 #[vPt p, vPt q] w (Gives (vPt (EC.add p q)) w) := by
  have hs := ((X4.of_is p).sum (X4.of_is q) p.2 q.2).point
  have h := PAdd_core p.1.1.val p.1.2.val q.1.1.val q.1.2.val (p.1.1 * p.1.2).val (q.1.1 * q.1.2).val _ _ _ _ _ _ w (Lib.hid (pCheck p)) (Lib.hid (pCheck q))
    (Lib.hid fun w g g1 h0 h1 n1 => eread_any p.1.1 p.1.2 0 0 0 0 w g g1 h0 h1 n1) (Lib.hid fun w g g1 h0 h1 n1 => eread_any q.1.1 q.1.2 0 0 0 0 w g g1 h0 h1 n1)
    (Lib.hid fun w g g1 h0 h1 => eadd_any (X4.of p) (X4.of q) _ _ _ _ w g g g1 h0 (by rw [of_l]; exact h0) (by rw [of_l]; exact h1)) (Lib.hid fun w g h => epoint_any ((X4.of p).sum (X4.of q)) w g h)
  rw [hs.1, hs.2] at h
  exact h
theorem pNeg (p : EC.Pt) (w : World) : Calls Try.prog 51 #[vPt p] w (Gives (vPt (EC.neg p)) w) :=
  PNeg_core p.1.1.val p.1.2.val _ w (Lib.hid (pCheck p)) (Lib.hid (fNeg p.1.1))
end Go.Proofs.Ytgdimnbdnepbgaa
