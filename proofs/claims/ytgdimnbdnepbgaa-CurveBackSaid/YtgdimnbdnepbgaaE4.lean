/- Several texts in one. No statement is proved here. -/
import Derived.Test.YtgdimnbdnepbgaaE3
import Derived.Test.YtgdimnbdnepbgaaK3
import Derived.ChangeSame
import Derived.Test.YtgdimnbdnepbgaaK6
/- Points compared; the curve's functions over points. No statement is proved here. -/
namespace Go.Proofs.Ytgdimnbdnepbgaa
open Go.RowKit
set_option linter.unusedVariables false
set_option maxRecDepth 40000
set_option linter.unusedSimpArgs false

theorem keyLits35 (m n : Nat) : Try.prog.keyLits 3 35 (vR [m, n]).cells.toList = some ((encs [m, n]).map fun b => Lit.int .u8 (b.toNat : Int)) := by
  have hc : (vR [m, n]).cells.toList = bcs (encs [m, n]) := rfl
  have hlen : (bcs (encs [m, n])).length = 64 := by rw [bcs_len, encs_len]; rfl
  have h35 : Try.prog.cellsOf 35 = 64 := by kernel_rfl
  have h23 : Try.prog.cellsOf 23 = 32 := by kernel_rfl
  have e1 : ((bcs (encs [m, n])).drop 0).take 32 = bcs (enc m) := by
    rw [List.drop_zero, encs, bcs_append, List.take_append_of_le_length (by rw [bcs_enc_len]; omega), List.take_of_length_le (by rw [bcs_enc_len]; omega)]
  have e2 : ((bcs (encs [m, n])).drop 32).take 32 = bcs (enc n) := by
    rw [encs, bcs_append, List.drop_append_of_le_length (by rw [bcs_enc_len]; omega), List.drop_of_length_le (by rw [bcs_enc_len]; omega), List.nil_append, encs_one, List.take_of_length_le (by rw [bcs_enc_len]; omega)]
  have k1 := keyLits23 (enc m) (enc_len m)
  have k2 := keyLits23 (enc n) (enc_len n)
  rw [show (Value.agg (bcs (enc m)).toArray).cells.toList = bcs (enc m) from rfl] at k1
  rw [show (Value.agg (bcs (enc n)).toArray).cells.toList = bcs (enc n) from rfl] at k2
  rw [hc]
  unfold Program.keyLits
  rw [Try.underlying35]
  simp only [hlen, h35, h23]
  rw [if_pos ⟨trivial, by kernel_rfl⟩]
  simp only [List.mapM_cons, List.mapM_nil, h23, e1, e2, k1, k2]
  show some (List.flatten [_, _]) = _
  rw [encs, encs_one, List.map_append]
  simp
theorem eqP (m n m' n' : Nat) (hm : m < TT) (hn : n < TT) (hm' : m' < TT) (hn' : n' < TT) (w : World) : (Op.equalIn 10000 35 (vR [m, n]) (vR [m', n'])).run Try.prog w = .ok (decide (m = m' ∧ n = n')) w := by
  have hk : Try.prog.keyTypeAt 3 35 = true := by kernel_rfl
  have hf : ∀ m n, (vR [m, n]).formed Try.prog 35 = true := by
    intro m n
    have hc : Try.prog.cellsOf 35 = 64 := by kernel_rfl
    have hl : (bcs (encs [m, n])).length = 64 := by rw [bcs_len, encs_len]; rfl
    simp [Value.formed, vR, hc, hl]
  obtain ⟨r, hr, hiff⟩ := run_equalIn_deep (P := Try.prog) 9997 3 35 hk w 3 3 _ _ _ _ (hf m n) (hf m' n') (keyLits35 m n) (keyLits35 m' n')
  rw [hr]
  congr 1
  have hl : encs [m, n] = encs [m', n'] ↔ m = m' ∧ n = n' := by
    constructor
    · intro h
      have h2 := List.append_inj h (by rw [enc_len, enc_len])
      refine ⟨enc_inj hm hm' h2.1, enc_inj hn hn' ?_⟩
      have h3 := h2.2
      rw [encs_one, encs_one] at h3
      exact h3
    · rintro ⟨rfl, rfl⟩; rfl
  by_cases h : m = m' ∧ n = n'
  · rw [decide_eq_true h]
    exact hiff.2 (by rw [hl.2 h])
  · rw [decide_eq_false h]
    cases r
    · rfl
    · exact absurd (hl.1 (lits_inj _ _ (hiff.1 rfl))) h
/-- A point's value. -/
def vPt (p : EC.Pt) : Value := vR [p.1.1.val, p.1.2.val]
noncomputable instance : DecidableEq EC.Pt := fun a b => Classical.propDecidable _
theorem pEq (p q : EC.Pt) (w : World) : (Op.equalIn 10000 35 (vPt p) (vPt q)).run Try.prog w = .ok (decide (p = q)) w := by
  unfold vPt
  rw [eqP _ _ _ _ (fT _) (fT _) (fT _) (fT _) w]
  congr 1
  rw [Bool.eq_iff_iff, decide_eq_true_eq, decide_eq_true_eq]
  constructor
  · rintro ⟨h1, h2⟩
    exact Subtype.ext (Prod.ext (Fin.ext h1) (Fin.ext h2))
  · rintro rfl
    exact ⟨rfl, rfl⟩
/-- The residue of any number. -/
def fO (n : Nat) : Fin PP := Fin.ofNat PP n
theorem fO_val (n : Nat) : (fO n).val = n % PP := rfl
theorem fO_of (a : Fin PP) : fO a.val = a := Fin.ext (Nat.mod_eq_of_lt a.isLt)
theorem fO_lt {n : Nat} (h : n < PP) : (fO n).val = n := Nat.mod_eq_of_lt h
def onB (X Y : Nat) : Bool := decide (fO Y * fO Y - fO X * fO X = 1 + dF * (fO X * fO X * (fO Y * fO Y)))
theorem rawMul (a b : Nat) (ha : a < TT) (hb : b < TT) (w : World) : Calls Try.prog 25 #[vN a, vN b] w (Gives (vN (fO a * fO b).val) w) :=
  gives_N (by rw [Fin.val_mul, fO_val, fO_val, ← Nat.mul_mod]) (Mul_any a b ha hb w)
theorem onCurve_any (X Y : Nat) (hX : X < TT) (hY : Y < TT) (w : World) : Calls Try.prog 79 #[vR [X, Y]] w (Gives (.bool (onB X Y)) w) :=
  onCurve_core X Y _ _ _ _ _ _ _ _ w (Lib.hid (rawMul X X hX hX)) (Lib.hid (rawMul Y Y hY hY)) (Lib.hid (fSub _ _)) (Lib.hid fun w => Of_any 1 (by omega) w) (Lib.hid fD) (Lib.hid (fMul _ _)) (Lib.hid (fMul _ _)) (Lib.hid fun w => by have h := fAdd 1 (dF * (fO X * fO X * (fO Y * fO Y))) w; rw [v1] at h; exact h) (Lib.hid (fEq _ _))
/-- What Check tells. -/
def chk (X Y : Nat) : Int := if decide (X = X % PP) && (decide (Y = Y % PP) && onB X Y) then 0 else 2
theorem Check_any (X Y : Nat) (hX : X < TT) (hY : Y < TT) (w : World) : Calls Try.prog 40 #[vR [X, Y]] w (Gives (.int .i64 (chk X Y)) w) :=
  Check_core X Y _ _ _ _ w (Lib.hid rfl) (Lib.hid (Canon_any X hX)) (Lib.hid (Canon_any Y hY)) (Lib.hid (onCurve_any X Y hX hY))
theorem chk_two (X Y : Nat) : chk X Y = 0 ∨ chk X Y = 2 := by
  unfold chk
  split
  · exact .inl rfl
  · exact .inr rfl
theorem chk_zero (X Y : Nat) (h : chk X Y = 0) : ∃ p : EC.Pt, vR [X, Y] = vPt p ∧ p.1.1.val = X ∧ p.1.2.val = Y := by
  unfold chk at h
  by_cases hc : (decide (X = X % PP) && (decide (Y = Y % PP) && onB X Y)) = true
  · simp only [Bool.and_eq_true, decide_eq_true_eq] at hc
    obtain ⟨h1, h2, h3⟩ := hc
    unfold onB at h3
    rw [decide_eq_true_eq] at h3
    have k1 : (fO X).val = X := by rw [fO_val, ← h1]
    have k2 : (fO Y).val = Y := by rw [fO_val, ← h2]
    exact ⟨⟨(fO X, fO Y), h3⟩, by unfold vPt; rw [k1, k2], k1, k2⟩
  · rw [if_neg hc] at h
    exact absurd h (by decide)
theorem chk_pt (p : EC.Pt) : chk p.1.1.val p.1.2.val = 0 := by
  unfold chk
  rw [if_pos]
  have h := p.2
  unfold Ed.On at h
  rw [Nat.mod_eq_of_lt p.1.1.isLt, Nat.mod_eq_of_lt p.1.2.isLt, decide_eq_true rfl, decide_eq_true rfl]
  unfold onB
  rw [fO_of, fO_of]
  simp only [Bool.true_and, decide_eq_true_eq]
  exact h
theorem pCheck (p : EC.Pt) (w : World) : Calls Try.prog 40 #[vPt p] w (Gives (.int .i64 0) w) := by
  have h := Check_any _ _ (fT p.1.1) (fT p.1.2) w
  rw [chk_pt] at h
  exact h
theorem pZero (w : World) : Calls Try.prog 39 #[] w (Gives (vPt EC.zero) w) := gives_V (by unfold vPt Ed.zero; rw [v1]; rfl) (Zero_any w)
/-- A point with Z 1. -/
def X4.of (p : EC.Pt) : X4 := ⟨p.1.1, p.1.2, 1, p.1.1 * p.1.2⟩
theorem F_mul_one (a : Fin PP) : a * 1 = a := by grind
theorem X4.of_is (p : EC.Pt) : (X4.of p).Is p.1.1 p.1.2 := ⟨one_ne, (F_mul_one _).symm, (F_mul_one _).symm, (F_mul_one _).symm⟩
theorem of_l (p : EC.Pt) : (X4.of p).l = [p.1.1.val, p.1.2.val, 1, (p.1.1 * p.1.2).val] := by unfold X4.l X4.of; simp only [v1]
theorem pAdd (p q : EC.Pt) (w : World) : Calls Try.prog 44 #[vPt p, vPt q] w (Gives (vPt (EC.add p q)) w) := by
  have hs := ((X4.of_is p).sum (X4.of_is q) p.2 q.2).point
  have h := PAdd_core p.1.1.val p.1.2.val q.1.1.val q.1.2.val (p.1.1 * p.1.2).val (q.1.1 * q.1.2).val _ _ _ _ _ _ w (Lib.hid (pCheck p)) (Lib.hid (pCheck q))
    (Lib.hid fun w g g1 h0 h1 n1 => eread_any p.1.1 p.1.2 0 0 0 0 w g g1 h0 h1 n1) (Lib.hid fun w g g1 h0 h1 n1 => eread_any q.1.1 q.1.2 0 0 0 0 w g g1 h0 h1 n1)
    (Lib.hid fun w g g1 h0 h1 => eadd_any (X4.of p) (X4.of q) _ _ _ _ w g g g1 h0 (by rw [of_l]; exact h0) (by rw [of_l]; exact h1)) (Lib.hid fun w g h => epoint_any ((X4.of p).sum (X4.of q)) w g h)
  rw [hs.1, hs.2] at h
  exact h
theorem pNeg (p : EC.Pt) (w : World) : Calls Try.prog 51 #[vPt p] w (Gives (vPt (EC.neg p)) w) :=
  PNeg_core p.1.1.val p.1.2.val _ w (Lib.hid (pCheck p)) (Lib.hid (fNeg p.1.1))
end Go.Proofs.Ytgdimnbdnepbgaa
/- The curve's examples, Bytes and Read over points. No statement is proved here. -/
namespace Go.Proofs.Ytgdimnbdnepbgaa
open Go.RowKit
set_option linter.unusedVariables false
set_option maxRecDepth 40000
set_option linter.unusedSimpArgs false

theorem bxN_lt : bxN < PP := by unfold bxN PP; omega
theorem byN_lt : byN < PP := by unfold byN PP; omega
def bX : Fin PP := ⟨bxN, bxN_lt⟩
def bY : Fin PP := ⟨byN, byN_lt⟩
theorem base_on : bY * bY - bX * bX = 1 + dF * (bX * bX * (bY * bY)) := by decide +kernel
noncomputable def bP : EC.Pt := ⟨(bX, bY), base_on⟩
theorem pBase (w : World) : Calls Try.prog 42 #[] w (Gives (vPt bP) w) := Base_any w
theorem across_any (k : Nat) (hk : PP = 8 * k + 5) (y : Fin PP) (w : World) :
    Calls Try.prog 78 #[vN y.val] w (Gives (.tuple #[vN (rt PP k ((y * y - 1) * fInv (dF * (y * y) + 1)).val).1, .bool (rt PP k ((y * y - 1) * fInv (dF * (y * y) + 1)).val).2]) w) := by
  have hA : ∀ w, Calls Try.prog 19 #[vN (dF * (y * y)).val, vN 1] w (Gives (vN (dF * (y * y) + 1).val) w) := fun w => by
    have h := fAdd (dF * (y * y)) 1 w
    rw [v1] at h
    exact h
  have hS : ∀ w, Calls Try.prog 21 #[vN (y * y).val, vN 1] w (Gives (vN (y * y - 1).val) w) := fun w => by
    have h := fSub (y * y) 1 w
    rw [v1] at h
    exact h
  have hR := Root_any k hk ((y * y - 1) * fInv (dF * (y * y) + 1)).val (fT _)
  generalize rt PP k ((y * y - 1) * fInv (dF * (y * y) + 1)).val = r at *
  exact across_core y.val _ _ _ _ _ _ _ r.1 r.2 w (Lib.hid fun w => Of_any 1 (by omega) w) (Lib.hid (fMul y y)) (Lib.hid fD) (Lib.hid (fMul _ _)) (Lib.hid hA) (Lib.hid (fInvC _)) (Lib.hid hS) (Lib.hid (fMul _ _)) (Lib.hid hR)
theorem rt_zero (k : Nat) : rt PP k 0 = (0, true) := by
  have h0 : (0 % PP) ^ (k + 1) % PP = 0 := by rw [Nat.zero_mod, Nat.zero_pow (by omega), Nat.zero_mod]
  unfold rt
  rw [h0, Nat.zero_mul, Nat.zero_mod, if_pos rfl]
  rfl
theorem oddOne_t : ((enc oddOne).getD 31 0).toNat = 128 := by decide +kernel
theorem oddOne_s : (enc oddOne).set 31 (UInt8.ofNat 0) = enc 1 := by decide +kernel
theorem clives_any (w : World) : Calls Try.prog 38 #[] w (Gives (.bool true) w) := by
  obtain ⟨k, hk⟩ := k_ex
  have hO : ∀ w, Calls Try.prog 31 #[vN bxN] w (Gives (.bool false) w) := fun w => by
    have h := Odd_any bxN (Nat.lt_trans bxN_lt PP_lt) w
    rw [show decide (bxN % PP % 2 = 1) = false from by decide +kernel] at h
    exact h
  have hB : ∀ w, Calls Try.prog 36 #[vR [bxN, byN]] w (Gives (.tuple #[vN byN, .int .i64 0]) w) := fun w =>
    Bytes_core bxN byN byN false w (Lib.hid (pCheck bP)) (Lib.hid hO) (Lib.hid (by simp)) (Lib.hid (by decide +kernel))
  have hA : ∀ w, Calls Try.prog 78 #[vN 1] w (Gives (.tuple #[vN 0, .bool true]) w) := fun w => by
    have h := across_any k hk 1 w
    have e : ((1 * 1 - 1) * fInv (dF * (1 * 1) + 1) : Fin PP) = 0 := by
      generalize fInv (dF * (1 * 1) + 1) = v
      grind
    rw [e, v0, rt_zero, v1] at h
    exact h
  have hC : ∀ w, Calls Try.prog 15 #[vN 1] w (Gives (.bool true) w) := fun w => by
    have h := fCanon 1 w
    rw [v1] at h
    exact h
  have hN : ∀ w, Calls Try.prog 23 #[vN 0] w (Gives (vN 0) w) := fun w => gives_N (by unfold PP; omega) (Neg_any 0 (by unfold TT; omega) w)
  have hR : ∀ w, Calls Try.prog 35 #[vN oddOne] w (Gives (.tuple #[vR [0, 0], .int .i64 4]) w) := fun w =>
    Read_core oddOne 1 0 0 128 0 0 0 4 true true true true w (Lib.hid oddOne_t) (Lib.hid (by decide +kernel)) (Lib.hid (by decide +kernel)) (Lib.hid (by omega)) (Lib.hid oddOne_s) (Lib.hid hC) (Lib.hid hA) (Lib.hid hN) (Lib.hid (eqN_same 0)) (Lib.hid (by simp))
  exact clives_core bxN byN oddOne w (Lib.hid Base_any) (Lib.hid hB) (Lib.hid hR) (Lib.hid rfl) (Lib.hid (by decide +kernel)) (Lib.hid fun i h1 h2 => (by decide +kernel : ∀ i, i < 32 → 1 ≤ i → ((enc byN).getD i 0).toNat = 102) i h2 h1)
end Go.Proofs.Ytgdimnbdnepbgaa
/- The lexical order of a long region, checked in fewer steps. No statement is proved here. -/
namespace Go.Proofs.Ytgdimnbdnepbgaa
open Go.RowKit
set_option linter.unusedVariables false
set_option linter.unusedSimpArgs false

def lstd (k m : Nat) : Array Bool := (List.replicate k true ++ List.replicate m false).toArray
theorem lstd_get (k m j : Nat) (d : Bool) : (lstd k m).getD j d = if j < k then true else if j < k + m then false else d := by
  unfold lstd
  rw [Array.getD_eq_getD_getElem?, List.getElem?_toArray]
  by_cases h : j < k
  · rw [if_pos h, List.getElem?_append_left (by simpa using h), List.getElem?_replicate, if_pos h]; rfl
  · rw [if_neg h, List.getElem?_append_right (by simpa using Nat.le_of_not_lt h), List.getElem?_replicate, List.length_replicate]
    by_cases h2 : j < k + m
    · rw [if_pos h2, if_pos (by omega)]; rfl
    · rw [if_neg h2, if_neg (by omega)]; rfl
theorem lstd_set (k m : Nat) : (lstd k (m + 1)).setIfInBounds k true = lstd (k + 1) m := by
  unfold lstd
  apply Array.toList_inj.1
  rw [Array.toList_setIfInBounds]
  show (List.replicate k true ++ List.replicate (m + 1) false).set k true = List.replicate (k + 1) true ++ List.replicate m false
  rw [List.set_append_right _ _ (by simp), List.length_replicate, Nat.sub_self, List.replicate_succ, List.set_cons_zero]
  simp [List.replicate_succ', List.append_assoc]
def stepsOk (md : Region.Mode) (ops : Array Oper) : Nat → List Oper → Bool
  | _, [] => true
  | k, o :: l => (o.after.all fun e => !Region.binds md e || decide (e.on < k)) && ((l.all fun oj => oj.after.any (fun e => Region.binds md e && e.on == k) || o.apart ops oj) && stepsOk md ops (k + 1) l)
theorem lex_steps (md : Region.Mode) (ops : Array Oper) : ∀ (l : List Oper) (k : Nat), (∀ j, l[j]? = ops[k + j]?) → k + l.length = ops.size → stepsOk md ops k l = true → Region.lexFrom md ops l.length k (lstd k l.length) = true
  | [], k, _, hn, _ => by
    show (Region.ready md ops (lstd k 0)).isEmpty = true
    rw [List.isEmpty_iff, List.eq_nil_iff_forall_not_mem]
    intro j hj
    have h := (mem_ready.1 hj).1
    rw [lstd_get] at h
    by_cases h1 : j < k
    · rw [if_pos h1] at h; cases h
    · rw [if_neg h1, if_neg (by simpa using h1)] at h; cases h
  | o :: l, k, hl, hn, h => by
    have h0 : ops[k]? = some o := by simpa using (hl 0).symm
    simp only [stepsOk, Bool.and_eq_true] at h
    obtain ⟨h1, h2, h3⟩ := h
    show ((Region.ready md ops (lstd k (l.length + 1))).contains k && Region.free md ops (lstd k (l.length + 1)) k && Region.lexFrom md ops l.length (k + 1) ((lstd k (l.length + 1)).setIfInBounds k true)) = true
    rw [lstd_set, lex_steps md ops l (k + 1) (fun j => by have := hl (j + 1); simpa [Nat.add_assoc, Nat.add_comm 1 j] using this) (by simp only [List.length_cons] at hn; omega) h3, Bool.and_true, Bool.and_eq_true]
    constructor
    · rw [List.contains_iff_mem, mem_ready]
      refine ⟨by rw [lstd_get, if_neg (by omega), if_pos (by omega)], o, h0, fun e he hb => ?_⟩
      have := Array.all_eq_true_iff_forall_mem.1 h1 e he
      rw [hb] at this
      simp at this
      rw [lstd_get, if_pos this]
    · unfold Region.free
      rw [h0]
      simp only
      rw [List.all_eq_true]
      intro j hj
      rw [List.mem_range] at hj
      by_cases hjk : j = k
      · subst hjk; simp
      · by_cases hlt : j < k
        · rw [lstd_get, if_pos hlt]; simp
        · obtain ⟨i, rfl⟩ : ∃ i, j = k + (i + 1) := ⟨j - k - 1, by omega⟩
          have hli : (o :: l)[i + 1]? = ops[k + (i + 1)]? := hl (i + 1)
          rw [List.getElem?_cons_succ] at hli
          rw [← hli]
          cases ho : l[i]? with
          | none => simp
          | some oj =>
            have hm := List.mem_of_getElem? ho
            have := List.all_eq_true.1 h2 oj hm
            simp only [Bool.or_eq_true] at this ⊢
            exact .inr this
theorem lexB_steps (md : Region.Mode) (l : List Oper) (h1 : Region.noSelect l.toArray = true) (h2 : stepsOk md l.toArray 0 l = true) : Region.lexB md l.toArray = true := by
  unfold Region.lexB
  rw [h1, Bool.true_and]
  have h := lex_steps md l.toArray l 0 (fun j => by rw [Nat.zero_add, List.getElem?_toArray]) (by simp) h2
  have e : (Array.replicate l.toArray.size false) = lstd 0 l.length := by
    unfold lstd
    apply Array.toList_inj.1
    simp
  rw [e]
  simpa using h
/-- A long region. -/
theorem region_wq2 {id : Nat} {Q : Exit → Act → World → Prop} {a : Act} {w : World} {l : List Oper} (hm : Try.prog.follows .mixedOrders = true) (h1 : Region.noSelect l.toArray = true) (h2 : stepsOk .any l.toArray 0 l = true)
    (h : WQ Try.prog l.toArray (CB w) (fun a' => ∀ w', Below w.heap.size w w' → Q .normal a' w') l a) : (Code.region id l.toArray true).wp Try.prog Q a w := region_wq hm (lexB_steps _ _ h1 h2) h
end Go.Proofs.Ytgdimnbdnepbgaa
/- Points that come in; steps of quiet regions over points. No statement is proved here. -/
namespace Go.Proofs.Ytgdimnbdnepbgaa
open Go.RowKit
set_option linter.unusedVariables false
set_option maxRecDepth 40000
set_option linter.unusedSimpArgs false

section
variable {ops : Array Oper} {rest : List Oper} {o : Oper} {a : Act} {w0 : World} {Q : Act → Prop}
theorem wq_loadP (hw : Region.wanted o (yielded ops a.tmps) = true) (x : Operand) (ho : o.op = .load 35 x) (g m n : Nat) (hx : a.eval x = .pointer (some ⟨g, 0, none⟩)) (hr : RAt w0 g [m, n]) (h : WQ Try.prog ops (CB w0) Q rest (a.put o.dst (vR [m, n]))) : WQ Try.prog ops (CB w0) Q (o :: rest) a :=
  ⟨qb_val hw _ (fun w hk => exec_loadP x ho g m n hx (hr.keep hk)) h.out⟩
theorem wq_loadF (hw : Region.wanted o (yielded ops a.tmps) = true) (x : Operand) (ho : o.op = .load 23 x) (g i off : Nat) (he : off = 32 * i) (l : List Nat) (n : Nat) (hx : a.eval x = .pointer (some ⟨g, off, none⟩)) (hr : RAt w0 g l) (hn : l[i]? = some n) (h : WQ Try.prog ops (CB w0) Q rest (a.put o.dst (vN n))) : WQ Try.prog ops (CB w0) Q (o :: rest) a :=
  ⟨qb_val hw _ (fun w hk => exec_loadF x ho g i off he l n hx (hr.keep hk) hn) h.out⟩
theorem wq_load22 (hw : Region.wanted o (yielded ops a.tmps) = true) (x : Operand) (ho : o.op = .load 22 x) (g n : Nat) (hx : a.eval x = .pointer (some ⟨g, 0, none⟩)) (hr : RAt w0 g [n]) (h : WQ Try.prog ops (CB w0) Q rest (a.put o.dst (vN n))) : WQ Try.prog ops (CB w0) Q (o :: rest) a :=
  ⟨qb_val hw _ (fun w hk => exec_load22 x ho g 0 0 rfl [n] n hx (hr.keep hk) rfl) h.out⟩
theorem wq_field (hw : Region.wanted o (yielded ops a.tmps) = true) (t : TypeId) (x : Operand) (i : Nat) (ho : o.op = .fieldAddr t x i) (g off : Nat) (hx : a.eval x = .pointer (some ⟨g, 0, none⟩)) (hr : ∀ w, (Instr.fieldAt t (.pointer (some ⟨g, 0, none⟩)) i).run Try.prog w = .ok (.pointer (some ⟨g, off, none⟩)) w)
    (h : WQ Try.prog ops (CB w0) Q rest (a.put o.dst (.pointer (some ⟨g, off, none⟩)))) : WQ Try.prog ops (CB w0) Q (o :: rest) a :=
  ⟨qb_val hw _ (fun w _ => exec_field t x i ho g off hx hr) h.out⟩
theorem wq_buildc (hw : Region.wanted o (yielded ops a.tmps) = true) (t : TypeId) (parts : Array (Nat × Operand)) (v : Value) (ho : o.op = .build t parts) (hr : ∀ w, (Instr.build t (parts.map fun (i, x) => (i, a.eval x))).run Try.prog w = .ok v w) (h : WQ Try.prog ops (CB w0) Q rest (a.put o.dst v)) : WQ Try.prog ops (CB w0) Q (o :: rest) a :=
  ⟨qb_val hw _ (fun w _ => exec_buildc ho (hr w)) h.out⟩
theorem exec_eqP {w : World} {m n m' n' : Nat} {b : Bool} (x y : Operand) (ho : o.op = .binOp .eql 35 x y 35) (hx : a.eval x = vR [m, n]) (hy : a.eval y = vR [m', n']) (hb : (Op.equalIn 10000 35 (vR [m, n]) (vR [m', n'])).run Try.prog w = .ok b w) : (execOp a.eval o).run Try.prog w = .ok (.value (.bool b)) w := by
  have hg : ∀ (x y : Operand), (eqGuard .eql 35 x y (vR [m, n]) (vR [m', n'])).run Try.prog w = .ok () w := fun x y => run_eqGuard_agg w .eql 35 x y _ _ Try.eqGuardType35
  have hbin : (binOp .eql 35 (vR [m, n]) (vR [m', n'])).run Try.prog w = .ok (.bool b) w := by
    show (do pure (.bool (← Op.equal 35 (vR [m, n]) (vR [m', n']))) : Sem Value).run Try.prog w = _
    rw [Sem.run_bind, show (Op.equal 35 (vR [m, n]) (vR [m', n'])) = Op.equalIn 10000 35 (vR [m, n]) (vR [m', n']) from rfl, hb]
    rfl
  unfold execOp
  simp only [ho, hx, hy, Sem.run_bind, Sem.run_pure, Result.andThen_ok, hg, hbin]
theorem exec_neqP {w : World} {m n m' n' : Nat} {b : Bool} (x y : Operand) (ho : o.op = .binOp .neq 35 x y 35) (hx : a.eval x = vR [m, n]) (hy : a.eval y = vR [m', n']) (hb : (Op.equalIn 10000 35 (vR [m, n]) (vR [m', n'])).run Try.prog w = .ok b w) : (execOp a.eval o).run Try.prog w = .ok (.value (.bool (!b))) w := by
  have hg : ∀ (x y : Operand), (eqGuard .neq 35 x y (vR [m, n]) (vR [m', n'])).run Try.prog w = .ok () w := fun x y => run_eqGuard_agg w .neq 35 x y _ _ Try.eqGuardType35
  have hbin : (binOp .neq 35 (vR [m, n]) (vR [m', n'])).run Try.prog w = .ok (.bool (!b)) w := by
    show (do pure (.bool (!(← Op.equal 35 (vR [m, n]) (vR [m', n'])))) : Sem Value).run Try.prog w = _
    rw [Sem.run_bind, show (Op.equal 35 (vR [m, n]) (vR [m', n'])) = Op.equalIn 10000 35 (vR [m, n]) (vR [m', n']) from rfl, hb]
    rfl
  unfold execOp
  simp only [ho, hx, hy, Sem.run_bind, Sem.run_pure, Result.andThen_ok, hg, hbin]
theorem wq_eqP (hw : Region.wanted o (yielded ops a.tmps) = true) (x y : Operand) (ho : o.op = .binOp .eql 35 x y 35) (m n m' n' : Nat) (hx : a.eval x = vR [m, n]) (hy : a.eval y = vR [m', n']) (b : Bool) (hb : ∀ w, (Op.equalIn 10000 35 (vR [m, n]) (vR [m', n'])).run Try.prog w = .ok b w) (h : WQ Try.prog ops (CB w0) Q rest (a.put o.dst (.bool b))) : WQ Try.prog ops (CB w0) Q (o :: rest) a :=
  ⟨qb_val hw _ (fun w _ => exec_eqP x y ho hx hy (hb w)) h.out⟩
theorem wq_neqP (hw : Region.wanted o (yielded ops a.tmps) = true) (x y : Operand) (ho : o.op = .binOp .neq 35 x y 35) (m n m' n' : Nat) (hx : a.eval x = vR [m, n]) (hy : a.eval y = vR [m', n']) (b b' : Bool) (hb : ∀ w, (Op.equalIn 10000 35 (vR [m, n]) (vR [m', n'])).run Try.prog w = .ok b w) (hb' : (!b) = b') (h : WQ Try.prog ops (CB w0) Q rest (a.put o.dst (.bool b'))) : WQ Try.prog ops (CB w0) Q (o :: rest) a :=
  ⟨qb_val hw _ (fun w _ => by rw [← hb']; exact exec_neqP x y ho hx hy (hb w)) h.out⟩
end
theorem run_eq36 (m n : Int) (b : Bool) (hb : (m == n) = b) (w : World) : (binOp .eql 36 (.int .i64 m) (.int .i64 n)).run Try.prog w = .ok (.bool b) w := by
  subst hb
  kernel_rfl
theorem eqP_same (m n : Nat) (w : World) : (Op.equalIn 10000 35 (vR [m, n]) (vR [m, n])).run Try.prog w = .ok true w := by
  have hk : Try.prog.keyTypeAt 3 35 = true := by kernel_rfl
  have hf : ∀ m n, (vR [m, n]).formed Try.prog 35 = true := by
    intro m n
    have hc : Try.prog.cellsOf 35 = 64 := by kernel_rfl
    have hl : (bcs (encs [m, n])).length = 64 := by rw [bcs_len, encs_len]; rfl
    simp [Value.formed, vR, hc, hl]
  obtain ⟨r, hr, hiff⟩ := run_equalIn_deep (P := Try.prog) 9997 3 35 hk w 3 3 _ _ _ _ (hf m n) (hf m n) (keyLits35 m n) (keyLits35 m n)
  rw [hr, hiff.2 rfl]

section
variable {H : Type} {enc : TypeId × Value → H} {P : Program} {w : World} {base : Nat} {spare : Nat → Bool} {held : Bool}
theorem open_cells {n e fuel : Nat} {t : TypeId} {cs : List Value} {x : DataW H × List MemPlace} (ht : P.underlying t = some (.array n e)) (he : P.underlying e = some (.int .u8)) (hce : P.cellsOf e = 1) (hct : P.cellsOf t = n)
    (hf : DataW.trod enc P w base spare held fuel t cs = some x) : ∃ l : List UInt8, l.length = n ∧ cs = bcs l := by
  obtain ⟨xs, m, _, _, hl, hxl, hel⟩ := DataW.trod_array ht hf
  have hcs : ∀ i (hi : i < cs.length), ∃ b : UInt8, cs[i] = bc b := by
    intro i hi
    have h1 := hel i (by omega)
    have hd : (cs.drop (i * P.cellsOf e)).take (P.cellsOf e) = [cs[i]] := by
      rw [hce, Nat.mul_one, List.drop_eq_getElem_cons hi]
      simp only [List.take_succ_cons, List.take_zero]
    rw [hd, List.getElem?_eq_getElem (by omega)] at h1
    obtain ⟨z, e0, _, wz⟩ := DataW.trod_int he h1
    simp only [List.cons.injEq, and_true] at e0
    have hb := bounds_u8 wz
    refine ⟨UInt8.ofNat z.toNat, ?_⟩
    rw [e0]
    unfold bc
    rw [UInt8.toNat_ofNat']
    congr 1
    omega
  refine ⟨cs.map (fun v => match v with | .int _ z => UInt8.ofNat z.toNat | _ => 0), by simp; omega, ?_⟩
  apply List.ext_getElem
  · simp [bcs]
  · intro i h1 h2
    obtain ⟨b, hb⟩ := hcs i h1
    simp only [bcs, List.map_map, List.getElem_map, Function.comp_def, hb]
    simp [bc]
end
/-- A point's numbers that came in. -/
theorem open_pt {H : Type} {enc' : TypeId × Value → H} {w : World} {base b0 : Nat} {spare : Nat → Bool} {held : Bool} {r : Reach} {v : Value} {d : DataW H} {p : List MemPlace}
    (hv : Value.okWide Try.prog w r b0 35 v) (h : DataW.Trod enc' Try.prog w base spare held 35 v d p) : ∃ X Y : Nat, X < TT ∧ Y < TT ∧ v = vR [X, Y] := by
  have ho : ∃ cs, v = .agg cs ∧ cs.size = Try.prog.cellsOf 35 := by
    simp only [Value.okWide, Try.underlying35] at hv
    obtain ⟨cs, h1, h2, _⟩ := hv
    exact ⟨cs, h1, h2⟩
  obtain ⟨cs, rfl, hsz⟩ := ho
  obtain ⟨fuel, hf⟩ := h
  obtain ⟨y0, y1, n, _, hl, h0, h1⟩ := Go.ChangeShapes.trod_struct2 Try.underlying35 hf
  obtain ⟨l0, n0, e0⟩ := open_cells under23 Try.underlying5 (by kernel_rfl) (by kernel_rfl) h0
  obtain ⟨l1, n1, e1⟩ := open_cells under23 Try.underlying5 (by kernel_rfl) (by kernel_rfl) h1
  have h23 : Try.prog.cellsOf 23 = 32 := by kernel_rfl
  have h35 : Try.prog.cellsOf 35 = 64 := by kernel_rfl
  refine ⟨nv l0, nv l1, nv_lt l0, nv_lt l1, ?_⟩
  unfold vR
  rw [encs, encs_one, enc_nv l0 n0, enc_nv l1 n1, bcs_append, ← e0, ← e1]
  congr 1
  apply Array.toList_inj.1
  show cs.toList = (cs.toList.drop 0).take (Try.prog.cellsOf 23) ++ (cs.toList.drop 32).take (Try.prog.cellsOf 23)
  rw [h23, List.drop_zero]
  have hlen : cs.toList.length = 64 := by rw [Array.length_toList, hsz, h35]
  rw [List.take_of_length_le (l := cs.toList.drop 32) (by rw [List.length_drop]; omega), List.take_append_drop]
end Go.Proofs.Ytgdimnbdnepbgaa
/- Bytes as arrays; Bytes and Read over points. No statement is proved here. -/
namespace Go.Proofs.Ytgdimnbdnepbgaa
open Go.RowKit
set_option linter.unusedVariables false
set_option maxRecDepth 40000
set_option linter.unusedSimpArgs false

/-- A number is stored into a row of numbers. -/
theorem exec_store22 {o : Oper} {a : Act} {w : World} (p x : Operand) (ho : o.op = .store 22 p x) (g i off : Nat) (he : off = 32 * i) (l : List Nat) (n : Nat) (hp : a.eval p = .pointer (some ⟨g, off, none⟩)) (hx : a.eval x = vN n) (hr : RAt w g l) (hi : i < l.length) :
    ∃ w', (execOp a.eval o).run Try.prog w = .ok .skip w' ∧ RAt w' g (l.set i n) ∧ w.grownBy w' (some g) ∧ w'.heap.size = w.heap.size := by
  subst he
  obtain ⟨t, ht⟩ := hr
  have hq : ∃ i, Try.prog.info? 22 = some i ∧ i.size = 32 := by
    have := size22
    cases h : Try.prog.info? 22 with
    | none => rw [h] at this; simp at this
    | some i => exact ⟨i, rfl, by rw [h] at this; simpa using this⟩
  obtain ⟨k, hk, hs⟩ := hq
  have hst := run_storeCells_at Try.prog g (32 * i) t (bcs (enc n)) 0 (bcs (encs l)).toArray w ht (by rw [List.size_toArray, bcs_len, bcs_len, encs_len, enc_len]; omega) (bcs_one _)
  simp only [Nat.add_zero] at hst
  have e : (((bcs (encs l)).toArray.toList.take (32 * i) ++ bcs (enc n) ++ (bcs (encs l)).toArray.toList.drop (32 * i + (bcs (enc n)).length)).toArray) = (bcs (encs (l.set i n))).toArray := by
    rw [bcs_enc_len, ← encs_set l i n hi, bcs_append, bcs_append]
    simp [bcs]
  rw [e] at hst
  have hrun : (Instr.storeAt 22 (.pointer (some ⟨g, 32 * i, none⟩)) (vN n)).run Try.prog w = .ok () (w.setRow g (bcs (encs (l.set i n))).toArray) := by
    have hc : (vN n).cells.size = 32 := by show (bcs (enc n)).toArray.size = 32; rw [List.size_toArray, bcs_enc_len]
    have hc2 : (vN n).cells.toList = bcs (enc n) := rfl
    simp [Instr.storeAt, Instr.sureAddr, storeVar, sizeOf, typeInfo, hk, hs, hc, hc2, hst]
  refine ⟨_, ?_, ⟨t, setRow_heap w g _ _ t _ ht⟩, setRow_grown w g _, by simp⟩
  unfold execOp
  simp only [ho, hp, hx, Sem.run_bind, Sem.run_pure, Result.andThen_ok, hrun]
theorem wpList_store22 {ops : Array Oper} {rest : List Oper} {o : Oper} {a : Act} {w : World} {Q : Exit → Act → World → Prop} (hgd : Region.wanted o (yielded ops a.tmps) = true) (p x : Operand) (ho : o.op = .store 22 p x) (g i off : Nat) (he : off = 32 * i) (l : List Nat) (n : Nat) (hp : a.eval p = .pointer (some ⟨g, off, none⟩)) (hx : a.eval x = vN n) (hr : RAt w g l) (hi : i < l.length)
    (h : ∀ w', RAt w' g (l.set i n) → w.grownBy w' (some g) → w'.heap.size = w.heap.size → wpList Try.prog ops Q rest (a.put o.dst undef) w') : wpList Try.prog ops Q (o :: rest) a w := by
  refine wpList_want hgd fun K hK => ?_
  obtain ⟨w', h1, h2, h3, h4⟩ := exec_store22 (a := a) p x ho g i off he l n hp hx hr hi
  unfold Oper.wp
  rw [h1]
  exact hK _ _ (h w' h2 h3 h4)
theorem keyLits22 (l : List UInt8) (hl : l.length = 32) : Try.prog.keyLits 2 22 (Value.agg (bcs l).toArray).cells.toList = some (l.map fun b => Lit.int .u8 (b.toNat : Int)) := by
  have h := keyLits_ints (P := Try.prog) (t := 22) (e := 5) (n := 32) (k := .u8) under22 Try.underlying5 (by kernel_rfl) (by kernel_rfl) (l.map fun b => (b.toNat : Int)) (by simpa using hl) (wf8 l)
  rw [← bcs_ints] at h
  rw [show (Value.agg (bcs l).toArray).cells.toList = bcs l from rfl, h, List.map_map]
  rfl
theorem eq22 (a b : List UInt8) (ha : a.length = 32) (hb : b.length = 32) (w : World) : (Op.equalIn 10000 22 (.agg (bcs a).toArray) (.agg (bcs b).toArray)).run Try.prog w = .ok (decide (a = b)) w := by
  have hk : Try.prog.keyTypeAt 2 22 = true := by kernel_rfl
  have hf : ∀ l : List UInt8, l.length = 32 → (Value.agg (bcs l).toArray).formed Try.prog 22 = true := by
    intro l hl
    have hc : Try.prog.cellsOf 22 = 32 := by kernel_rfl
    simp [Value.formed, hc, bcs_len, hl]
  obtain ⟨r, hr, hiff⟩ := run_equalIn_deep (P := Try.prog) 9998 2 22 hk w 2 2 _ _ _ _ (hf a ha) (hf b hb) (keyLits22 a ha) (keyLits22 b hb)
  rw [hr]
  congr 1
  by_cases h : a = b
  · subst h
    rw [decide_eq_true rfl]
    exact hiff.2 rfl
  · rw [decide_eq_false h]
    cases r
    · rfl
    · exact absurd (lits_inj a b (hiff.1 rfl)) h
theorem eqN22 (m n : Nat) (hm : m < TT) (hn : n < TT) (w : World) : (Op.equalIn 10000 22 (vN m) (vN n)).run Try.prog w = .ok (decide (m = n)) w := by
  have h := eq22 (enc m) (enc n) (enc_len m) (enc_len n) w
  rw [show (Value.agg (bcs (enc m)).toArray) = vN m from rfl, show (Value.agg (bcs (enc n)).toArray) = vN n from rfl] at h
  rw [h]
  congr 1
  rw [Bool.eq_iff_iff, decide_eq_true_eq, decide_eq_true_eq]
  exact ⟨fun h => enc_inj hm hn h, fun h => by rw [h]⟩
section
variable {o : Oper} {a : Act}
theorem exec_eq22 {w : World} {m n : Nat} {b : Bool} (x y : Operand) (ho : o.op = .binOp .eql 22 x y 22) (hx : a.eval x = vN m) (hy : a.eval y = vN n) (hb : (Op.equalIn 10000 22 (vN m) (vN n)).run Try.prog w = .ok b w) : (execOp a.eval o).run Try.prog w = .ok (.value (.bool b)) w := by
  have hg : ∀ (x y : Operand), (eqGuard .eql 22 x y (vN m) (vN n)).run Try.prog w = .ok () w := fun x y => run_eqGuard_agg w .eql 22 x y _ _ Try.eqGuardType22
  have hbin : (binOp .eql 22 (vN m) (vN n)).run Try.prog w = .ok (.bool b) w := by
    show (do pure (.bool (← Op.equal 22 (vN m) (vN n))) : Sem Value).run Try.prog w = _
    rw [Sem.run_bind, show (Op.equal 22 (vN m) (vN n)) = Op.equalIn 10000 22 (vN m) (vN n) from rfl, hb]
    rfl
  unfold execOp
  simp only [ho, hx, hy, Sem.run_bind, Sem.run_pure, Result.andThen_ok, hg, hbin]
theorem exec_neq22 {w : World} {m n : Nat} {b : Bool} (x y : Operand) (ho : o.op = .binOp .neq 22 x y 22) (hx : a.eval x = vN m) (hy : a.eval y = vN n) (hb : (Op.equalIn 10000 22 (vN m) (vN n)).run Try.prog w = .ok b w) : (execOp a.eval o).run Try.prog w = .ok (.value (.bool (!b))) w := by
  have hg : ∀ (x y : Operand), (eqGuard .neq 22 x y (vN m) (vN n)).run Try.prog w = .ok () w := fun x y => run_eqGuard_agg w .neq 22 x y _ _ Try.eqGuardType22
  have hbin : (binOp .neq 22 (vN m) (vN n)).run Try.prog w = .ok (.bool (!b)) w := by
    show (do pure (.bool (!(← Op.equal 22 (vN m) (vN n)))) : Sem Value).run Try.prog w = _
    rw [Sem.run_bind, show (Op.equal 22 (vN m) (vN n)) = Op.equalIn 10000 22 (vN m) (vN n) from rfl, hb]
    rfl
  unfold execOp
  simp only [ho, hx, hy, Sem.run_bind, Sem.run_pure, Result.andThen_ok, hg, hbin]
end
namespace Ed
variable {n : Nat} [NeZero n]
/-- d y^2 + 1 is never 0. -/
theorem den_y (E : Ed n) (y : Fin n) : E.d * (y * y) + 1 ≠ 0 := by
  intro h
  have hy : y ≠ 0 := fun h0 => E.h1 (by rw [h0] at h; grind)
  have hi := E.hi
  have hv := E.hinv y hy
  refine E.hd (E.i * E.inv y) ?_
  apply E.cancel (E.mul_ne hy hy)
  have e : y * y * (E.i * E.inv y * (E.i * E.inv y)) = E.i * E.i * (y * E.inv y) * (y * E.inv y) := by grind
  rw [e, hi, hv]
  grind
theorem On_x (E : Ed n) {x y : Fin n} (h : E.On x y) : (y * y - 1) * E.inv (E.d * (y * y) + 1) = x * x := by
  have hv := E.hinv _ (E.den_y y)
  unfold On at h
  generalize E.inv (E.d * (y * y) + 1) = v at *
  have e : y * y - 1 = x * x * (E.d * (y * y) + 1) := by grind
  rw [e]
  grind
theorem x_On (E : Ed n) {x y : Fin n} (h : x * x = (y * y - 1) * E.inv (E.d * (y * y) + 1)) : E.On x y := by
  have hv := E.hinv _ (E.den_y y)
  unfold On
  generalize E.inv (E.d * (y * y) + 1) = v at *
  have e : x * x * (E.d * (y * y) + 1) = y * y - 1 := by rw [h]; grind
  grind
end Ed
theorem P_odd : PP % 2 = 1 := by unfold PP; rfl
theorem sqv (x : Fin PP) : (x * x).val = x.val * x.val % PP := Fin.val_mul x x
/-- The root that Read takes. -/
noncomputable def rtY (k : Nat) (y : Fin PP) : Nat × Bool := rt PP k ((y * y - 1) * fInv (dF * (y * y) + 1)).val
theorem rtY_on (k : Nat) (hk : PP = 8 * k + 5) (x y : Fin PP) (h : EC.On x y) : rtY k y = (evn PP x.val, true) := by
  have e : (y * y - 1) * fInv (dF * (y * y) + 1) = x * x := EC.On_x h
  unfold rtY
  rw [e, sqv]
  by_cases h0 : x = 0
  · subst h0
    rw [v0, Nat.zero_mul, Nat.zero_mod, rt_zero]
    rfl
  · have hd : ¬ PP ∣ x.val := fun hd => val_ne h0 (Nat.mod_eq_zero_of_dvd hd)
    have h := rt_square prP hk (htwo k hk) x.val hd
    rw [Nat.mod_eq_of_lt x.isLt] at h
    exact h
theorem rtY_ok (k : Nat) (hk : PP = 8 * k + 5) (y : Fin PP) (h : (rtY k y).2 = true) : ∃ x : Fin PP, EC.On x y ∧ (rtY k y).1 = x.val ∧ x.val % 2 = 0 := by
  obtain ⟨h1, h2⟩ := rt_sq prP hk (htwo k hk) _ h
  have hlt := rt_lt prP hk ((y * y - 1) * fInv (dF * (y * y) + 1)).val
  refine ⟨⟨(rtY k y).1, hlt⟩, ?_, rfl, h2⟩
  apply EC.x_On
  apply Fin.ext
  rw [Fin.val_mul]
  show (rtY k y).1 * (rtY k y).1 % PP = ((y * y - 1) * fInv (dF * (y * y) + 1)).val
  have := h1
  rw [Nat.mod_eq_of_lt (Fin.isLt _)] at this
  exact this
theorem neg_val (x : Fin PP) (h : x ≠ 0) : (-x).val = PP - x.val := by
  have hx : x.val ≠ 0 := fun h0 => h (Fin.ext h0)
  have e : (-x).val = (PP - x.val) % PP := rfl
  rw [e, Nat.mod_eq_of_lt (by have := x.isLt; omega)]
def HH : Nat := 57896044618658097711785492504343953926634992332820282019728792003956564819968
theorem HH_eq : HH = 128 * 256 ^ 31 := by unfold HH; rfl
theorem PH : PP < HH := by unfold PP HH; omega
theorem HT2 : TT = HH + HH := by unfold TT HH; omega
/-- The bytes of a point, as a number. -/
def bts (x y : Fin PP) : Nat := if x.val % 2 = 1 then y.val + HH else y.val
theorem bts_lt (x y : Fin PP) : bts x y < TT := by
  unfold bts
  have := y.isLt
  have := PH
  rw [HT2]
  split <;> omega
/-- The highest bit, set or not. -/
theorem top_set (y : Nat) (hy : y < HH) : ((enc y).getD 31 0).toNat < 128 ∧ (enc y).set 31 (UInt8.ofNat (((enc y).getD 31 0).toNat + 128)) = enc (y + HH) := by
  have hT : y < TT := by rw [HT2]; omega
  have hb := enc_byte y hT 31
  have h1 : y / 256 ^ 31 < 128 := by rw [Nat.div_lt_iff_lt_mul (by decide)]; rw [HH_eq] at hy; exact hy
  have h2 : ((enc y).getD 31 0).toNat < 128 := by rw [hb]; exact Nat.lt_of_le_of_lt (Nat.mod_le _ _) h1
  refine ⟨h2, bytes_eq _ _ (by rw [HT2]; omega) (by rw [List.length_set, enc_len]) fun j hj => ?_⟩
  have hHT : y + HH < TT := by rw [HT2]; omega
  by_cases e : 31 = j
  · subst e
    rw [getD_set_eq8 _ _ _ (by rw [enc_len]; omega), of_byte, hb, HH_eq, Nat.add_mul_div_right _ _ (by decide)]
    omega
  · rw [getD_set_ne8 _ _ _ _ e, enc_byte y hT j]
    have : HH = 256 ^ j * (128 * 256 ^ (31 - j)) := by rw [HH_eq, show 256 ^ 31 = 256 ^ j * 256 ^ (31 - j) from by rw [← Nat.pow_add]; congr 1; omega]; ac_rfl
    rw [this, Nat.add_mul_div_left _ _ (Nat.pow_pos (by decide))]
    have : 128 * 256 ^ (31 - j) = 256 * (128 * 256 ^ (30 - j)) := by rw [show 31 - j = (30 - j) + 1 from by omega, Nat.pow_succ]; ac_rfl
    rw [this, Nat.add_mul_mod_self_left]
theorem top_clear (y : Nat) (hy : y < HH) : 128 ≤ ((enc (y + HH)).getD 31 0).toNat ∧ (enc (y + HH)).set 31 (UInt8.ofNat (((enc (y + HH)).getD 31 0).toNat - 128)) = enc y := by
  obtain ⟨h1, h2⟩ := top_set y hy
  rw [← h2, getD_set_eq8 _ _ _ (by rw [enc_len]; omega), of_byte, Nat.mod_eq_of_lt (by omega), Nat.add_sub_cancel]
  refine ⟨by omega, ?_⟩
  rw [List.set_set]
  have : UInt8.ofNat ((enc y).getD 31 0).toNat = (enc y).getD 31 0 := by apply UInt8.toNat_inj.1; rw [of_byte, Nat.mod_eq_of_lt (UInt8.toNat_lt _)]
  rw [this]
  have hg : (enc y).getD 31 0 = (enc y)[31]'(by rw [enc_len]; omega) := by rw [List.getD_eq_getElem?_getD, List.getElem?_eq_getElem (by rw [enc_len]; omega)]; rfl
  rw [hg]
  exact List.set_getElem_self _
theorem top_same (y : Nat) : (enc y).set 31 (UInt8.ofNat ((enc y).getD 31 0).toNat) = enc y := by
  have : UInt8.ofNat ((enc y).getD 31 0).toNat = (enc y).getD 31 0 := by apply UInt8.toNat_inj.1; rw [of_byte, Nat.mod_eq_of_lt (UInt8.toNat_lt _)]
  rw [this]
  have hg : (enc y).getD 31 0 = (enc y)[31]'(by rw [enc_len]; omega) := by rw [List.getD_eq_getElem?_getD, List.getElem?_eq_getElem (by rw [enc_len]; omega)]; rfl
  rw [hg]
  exact List.set_getElem_self _
theorem and_top : ∀ t : Nat, t < 256 → (bits .and .u8 (t : Int) 128 != 0) = decide (128 ≤ t) := by decide +kernel
theorem clr_top : ∀ t : Nat, t < 256 → bits .andNot .u8 (t : Int) 128 = ((if 128 ≤ t then t - 128 else t : Nat) : Int) := by decide +kernel
theorem xor_top : ∀ t : Nat, t < 256 → bits .xor .u8 (t : Int) 128 = ((if 128 ≤ t then t - 128 else t + 128 : Nat) : Int) := by decide +kernel
end Go.Proofs.Ytgdimnbdnepbgaa
/- Bytes and Read, over points and numbers. No statement is proved here. -/
namespace Go.Proofs.Ytgdimnbdnepbgaa
open Go.RowKit
set_option linter.unusedVariables false
set_option maxRecDepth 40000
set_option linter.unusedSimpArgs false

theorem pBytes (p : EC.Pt) (w : World) : Calls Try.prog 36 #[vPt p] w (Gives (.tuple #[vN (bts p.1.1 p.1.2), .int .i64 0]) w) := by
  have ht := top_set p.1.2.val (Nat.lt_trans p.1.2.isLt PH)
  refine Bytes_core p.1.1.val p.1.2.val (bts p.1.1 p.1.2) _ w (Lib.hid (pCheck p)) (Lib.hid (Odd_any p.1.1.val (fT _))) ?_ (Lib.hid ht.1)
  rw [Nat.mod_eq_of_lt p.1.1.isLt]
  unfold bts
  by_cases h : p.1.1.val % 2 = 1
  · rw [decide_eq_true h, if_pos h, if_pos rfl]
    exact Lib.hid ht.2
  · rw [decide_eq_false h, if_neg h, if_neg (by decide)]
    exact Lib.hid rfl
theorem across_raw (k : Nat) (hk : PP = 8 * k + 5) (y : Nat) (hy : y < TT) (w : World) : Calls Try.prog 78 #[vN y] w (Gives (.tuple #[vN (rtY k (fO y)).1, .bool (rtY k (fO y)).2]) w) := by
  have hA : ∀ w, Calls Try.prog 19 #[vN (dF * (fO y * fO y)).val, vN 1] w (Gives (vN (dF * (fO y * fO y) + 1).val) w) := fun w => by
    have h := fAdd (dF * (fO y * fO y)) 1 w
    rw [v1] at h
    exact h
  have hS : ∀ w, Calls Try.prog 21 #[vN (fO y * fO y).val, vN 1] w (Gives (vN (fO y * fO y - 1).val) w) := fun w => by
    have h := fSub (fO y * fO y) 1 w
    rw [v1] at h
    exact h
  have hR := Root_any k hk ((fO y * fO y - 1) * fInv (dF * (fO y * fO y) + 1)).val (fT _)
  unfold rtY
  generalize rt PP k ((fO y * fO y - 1) * fInv (dF * (fO y * fO y) + 1)).val = r at *
  exact across_core y _ _ _ _ _ _ _ r.1 r.2 w (Lib.hid fun w => Of_any 1 (by omega) w) (Lib.hid (rawMul y y hy hy)) (Lib.hid fD) (Lib.hid (fMul _ _)) (Lib.hid hA) (Lib.hid (fInvC _)) (Lib.hid hS) (Lib.hid (fMul _ _)) (Lib.hid hR)
/-- The point with these numbers. -/
def mkP (x y : Fin PP) (h : EC.On x y) : EC.Pt := ⟨(x, y), h⟩
/-- What Read tells of y, with the highest bit or without. -/
theorem read_low (k : Nat) (hk : PP = 8 * k + 5) (y : Nat) (hy : y < HH) (odd : Bool) (w : World) (rx ry : Nat) (re : Int)
    (h : if decide (y = y % PP) && ((rtY k (fO y)).2 && !(odd && decide ((rtY k (fO y)).1 = 0))) then (if odd then (PP - (rtY k (fO y)).1 % PP) % PP else (rtY k (fO y)).1) = rx ∧ y = ry ∧ (0 : Int) = re else 0 = rx ∧ 0 = ry ∧ (4 : Int) = re) :
    Calls Try.prog 35 #[vN (if odd then y + HH else y)] w (Gives (.tuple #[vR [rx, ry], .int .i64 re]) w) := by
  have hT : y < TT := by rw [HT2]; omega
  have hlt := rt_lt prP hk ((fO y * fO y - 1) * fInv (dF * (fO y * fO y) + 1)).val
  have hxT : (rtY k (fO y)).1 < TT := Nat.lt_trans hlt PP_lt
  have hA := across_raw k hk y hT
  have hN := Neg_any (rtY k (fO y)).1 hxT
  have hE := eqN (rtY k (fO y)).1 0 hxT (by unfold TT; omega)
  obtain ⟨s1, s2⟩ := top_set y hy
  obtain ⟨c1, c2⟩ := top_clear y hy
  have b1 := UInt8.toNat_lt ((enc (y + HH)).getD 31 0)
  clear hlt
  cases odd
  · refine Read_core y y (rtY k (fO y)).1 _ _ ((enc y).getD 31 0).toNat rx ry re false _ _ _ w (Lib.hid rfl) (Lib.hid ?_) (Lib.hid ?_) (Lib.hid (by omega)) (Lib.hid (top_same y)) (Lib.hid (Canon_any y hT)) (Lib.hid hA) (Lib.hid hN) (Lib.hid hE) (Lib.hid h)
    · rw [and_top _ (by omega), decide_eq_false (by omega)]
    · rw [clr_top _ (by omega), if_neg (by omega)]
  · refine Read_core (y + HH) y (rtY k (fO y)).1 _ _ (((enc (y + HH)).getD 31 0).toNat - 128) rx ry re true _ _ _ w (Lib.hid rfl) (Lib.hid ?_) (Lib.hid ?_) (Lib.hid (by omega)) (Lib.hid c2) (Lib.hid (Canon_any y hT)) (Lib.hid hA) (Lib.hid hN) (Lib.hid hE) (Lib.hid h)
    · rw [and_top _ b1, decide_eq_true c1]
    · rw [clr_top _ b1, if_pos c1]
/-- A point is read from its bytes. -/
theorem pRead (p : EC.Pt) (w : World) : Calls Try.prog 35 #[vN (bts p.1.1 p.1.2)] w (Gives (.tuple #[vPt p, .int .i64 0]) w) := by
  obtain ⟨k, hk⟩ := k_ex
  have hr := rtY_on k hk p.1.1 p.1.2 p.2
  have hlt := p.1.1.isLt
  have hy : p.1.2.val < HH := Nat.lt_trans p.1.2.isLt PH
  have hodd := P_odd
  have h := read_low k hk p.1.2.val hy (decide (p.1.1.val % 2 = 1)) w p.1.1.val p.1.2.val 0
  rw [fO_of, hr, Nat.mod_eq_of_lt p.1.2.isLt, decide_eq_true rfl] at h
  unfold bts vPt
  by_cases ho : p.1.1.val % 2 = 1
  · have he : evn PP p.1.1.val = PP - p.1.1.val := by unfold evn; rw [if_pos ho, Nat.mod_eq_of_lt (by omega)]
    rw [decide_eq_true ho, he] at h
    rw [if_pos ho]
    simp only [if_true] at h
    refine h ?_
    have hz : (PP - (PP - p.1.1.val) % PP) % PP = p.1.1.val := by
      rw [Nat.mod_eq_of_lt (show PP - p.1.1.val < PP by omega), show PP - (PP - p.1.1.val) = p.1.1.val from by omega, Nat.mod_eq_of_lt hlt]
    rw [decide_eq_false (by omega), hz]
    simp
  · have he : evn PP p.1.1.val = p.1.1.val := by unfold evn; rw [if_neg ho]
    rw [decide_eq_false ho, he] at h
    rw [if_neg ho]
    refine h ?_
    simp
/-- With X 0 and the highest bit nothing is read. -/
theorem pRead_zero (p : EC.Pt) (h0 : p.1.1 = 0) (w : World) : Calls Try.prog 35 #[vN (p.1.2.val + HH)] w (Gives (.tuple #[vR [0, 0], .int .i64 4]) w) := by
  obtain ⟨k, hk⟩ := k_ex
  have hr := rtY_on k hk p.1.1 p.1.2 p.2
  have hy : p.1.2.val < HH := Nat.lt_trans p.1.2.isLt PH
  have h := read_low k hk p.1.2.val hy true w 0 0 4
  rw [fO_of, hr, h0] at h
  have he : evn PP (0 : Fin PP).val = 0 := rfl
  rw [he] at h
  refine h ?_
  simp
/-- Whatever is read is a point with just these bytes. -/
theorem pRead_any (n : Nat) (hn : n < TT) : (∃ p : EC.Pt, n = bts p.1.1 p.1.2) ∨ ∀ w, Calls Try.prog 35 #[vN n] w (Gives (.tuple #[vR [0, 0], .int .i64 4]) w) := by
  obtain ⟨k, hk⟩ := k_ex
  obtain ⟨y, odd, hy, rfl⟩ : ∃ (y : Nat) (odd : Bool), y < HH ∧ n = if odd then y + HH else y := by
    rw [HT2] at hn
    by_cases h : n < HH
    · exact ⟨n, false, h, rfl⟩
    · exact ⟨n - HH, true, by omega, by simp; omega⟩
  by_cases hc : (decide (y = y % PP) && ((rtY k (fO y)).2 && !(odd && decide ((rtY k (fO y)).1 = 0)))) = true
  · left
    simp only [Bool.and_eq_true, decide_eq_true_eq, Bool.not_eq_true', Bool.and_eq_false_iff, decide_eq_false_iff_not] at hc
    obtain ⟨h1, h2, h3⟩ := hc
    obtain ⟨x, hx, e, hev⟩ := rtY_ok k hk _ h2
    have hyv : (fO y).val = y := by rw [fO_val, ← h1]
    have hodd := P_odd
    cases odd
    · refine ⟨mkP x (fO y) hx, ?_⟩
      show (if false = true then y + HH else y) = if x.val % 2 = 1 then (fO y).val + HH else (fO y).val
      rw [if_neg (show ¬ x.val % 2 = 1 by omega), hyv]
      rfl
    · have hx0 : x ≠ 0 := fun h0 => by
        rcases h3 with h3 | h3
        · cases h3
        · rw [e, h0] at h3
          exact h3 rfl
      refine ⟨mkP (-x) (fO y) (EC.On_neg hx), ?_⟩
      have hv := neg_val x hx0
      have hlt := x.isLt
      show (if true = true then y + HH else y) = if (-x).val % 2 = 1 then (fO y).val + HH else (fO y).val
      rw [hv, if_pos (show (PP - x.val) % 2 = 1 by omega), hyv]
      rfl
  · right
    intro w
    refine read_low k hk y hy odd w 0 0 4 ?_
    rw [if_neg hc]
    exact ⟨rfl, rfl, rfl⟩
/-- The highest bit makes the negative. -/
theorem bts_neg (x y : Fin PP) (h : x ≠ 0) : bts (-x) y = (if 128 ≤ ((enc (bts x y)).getD 31 0).toNat then bts x y - HH else bts x y + HH) := by
  have hv := neg_val x h
  have hlt := x.isLt
  have hodd := P_odd
  have hy : y.val < HH := Nat.lt_trans y.isLt PH
  unfold bts
  rw [hv]
  by_cases ho : x.val % 2 = 1
  · rw [if_neg (by omega), if_pos ho, if_pos (top_clear _ hy).1]
    omega
  · rw [if_pos (by omega), if_neg ho, if_neg (by have := (top_set _ hy).1; omega)]
/-- The highest bit turned. -/
theorem turn (n : Nat) (hn : n < TT) : ∃ m u, m = (if 128 ≤ ((enc n).getD 31 0).toNat then n - HH else n + HH) ∧ bits .xor .u8 (((enc n).getD 31 0).toNat : Int) 128 = ((u : Nat) : Int) ∧ u < 256 ∧ (enc n).set 31 (UInt8.ofNat u) = enc m := by
  rw [HT2] at hn
  by_cases h : n < HH
  · obtain ⟨s1, s2⟩ := top_set n h
    exact ⟨n + HH, _, by rw [if_neg (by omega)], by rw [xor_top _ (by omega), if_neg (by omega)], by omega, s2⟩
  · obtain ⟨y, rfl⟩ : ∃ y, n = y + HH := ⟨n - HH, by omega⟩
    obtain ⟨c1, c2⟩ := top_clear y (by omega)
    have b1 := UInt8.toNat_lt ((enc (y + HH)).getD 31 0)
    exact ⟨y, _, by rw [if_pos c1]; omega, by rw [xor_top _ b1, if_pos c1], by omega, c2⟩
theorem rCanonF (a : Fin PP) (w : World) : Calls Try.prog 16 #[vN a.val] w (Gives (.bool true) w) := by
  have h := rCanon_any a.val (fT a) w
  rw [decide_eq_true (Nat.mod_eq_of_lt a.isLt).symm] at h
  exact h
end Go.Proofs.Ytgdimnbdnepbgaa
