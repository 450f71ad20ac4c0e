/- The curve's functions over residues modulo p. No statement is proved here. -/
import Derived.Test.YtgdimnbdnepbgaaEG
import Derived.Test.YtgdimnbdnepbgaaEC
import Derived.Test.YtgdimnbdnepbgaaMA
namespace Go.Proofs.Ytgdimnbdnepbgaa
open Go.RowKit
set_option linter.unusedVariables false
set_option maxRecDepth 40000
set_option linter.unusedSimpArgs false

instance nzP : NeZero PP := ⟨by unfold PP; omega⟩
theorem fT (a : Fin PP) : a.val < TT := Nat.lt_trans a.isLt PP_lt
theorem fz_nz (a b : Fin PP) (h : a * b = 0) : a = 0 ∨ b = 0 := by
  have h1 : a.val * b.val % PP = 0 := by
    have := congrArg Fin.val h
    rwa [Fin.val_mul] at this
  rcases prP.euclid (Nat.dvd_of_mod_eq_zero h1) with h | h
  · left
    apply Fin.ext
    rw [Nat.eq_zero_of_dvd_of_lt h a.isLt]
    rfl
  · right
    apply Fin.ext
    rw [Nat.eq_zero_of_dvd_of_lt h b.isLt]
    rfl
theorem val_ne {a : Fin PP} (h : a ≠ 0) : a.val % PP ≠ 0 := fun h0 => h (by
  apply Fin.ext
  rw [Nat.mod_eq_of_lt a.isLt] at h0
  rw [h0]
  rfl)
theorem inv_ex (a : Fin PP) : ∃ b : Fin PP, (a ≠ 0 → a * b = 1) ∧ (a = 0 → b = 0) ∧ ∀ q, PP = q + 2 → b.val = a.val ^ q % PP := by
  obtain ⟨q, hq⟩ := q_ex
  refine ⟨⟨a.val ^ q % PP, modP _⟩, fun h => ?_, fun h => ?_, fun q' hq' => ?_⟩
  · apply Fin.ext
    rw [Fin.val_mul]
    show a.val * (a.val ^ q % PP) % PP = 1 % PP
    rw [inv_mul q hq a.val (val_ne h), Nat.mod_eq_of_lt (by unfold PP; omega)]
  · apply Fin.ext
    show a.val ^ q % PP = 0
    subst h
    show 0 ^ q % PP = 0
    rw [Nat.zero_pow (by unfold PP at hq; omega), Nat.zero_mod]
  · obtain rfl : q = q' := by omega
    rfl
noncomputable def fInv (a : Fin PP) : Fin PP := Classical.choose (inv_ex a)
theorem fInv_mul {a : Fin PP} (h : a ≠ 0) : a * fInv a = 1 := (Classical.choose_spec (inv_ex a)).1 h
theorem fInv_zero : fInv 0 = 0 := (Classical.choose_spec (inv_ex 0)).2.1 rfl
theorem fInv_val (a : Fin PP) (q : Nat) (hq : PP = q + 2) : (fInv a).val = a.val ^ q % PP := (Classical.choose_spec (inv_ex a)).2.2 q hq
theorem dN_lt : dN < PP := by unfold dN PP; omega
def dF : Fin PP := ⟨dN, dN_lt⟩
def iN : Nat := 19681161376707505956807079304988542015446066515923890162744021073123829784752
theorem iN_lt : iN < PP := by unfold iN PP; omega
def iF : Fin PP := ⟨iN, iN_lt⟩
theorem iN_sq : iN * iN % PP = (PP - 1 % PP) % PP := by decide +kernel
theorem dchi (k : Nat) (hk : PP = 8 * k + 5) : dN ^ (4 * k + 2) % PP = PP - 1 := by
  rw [show 4 * k + 2 = 28948022309329048855892746252171976963317496166410141009864396001978282409974 from by unfold PP at hk; omega]
  have h := pm_eq PP dN 256 28948022309329048855892746252171976963317496166410141009864396001978282409974 (by decide)
  have e : pm PP dN 256 28948022309329048855892746252171976963317496166410141009864396001978282409974 = PP - 1 := by decide +kernel
  exact h.symm.trans e
theorem d_no (x : Fin PP) : x * x ≠ dF := by
  intro h
  obtain ⟨k, hk⟩ := k_ex
  have h1 : x.val * x.val % PP = dN := by
    have := congrArg Fin.val h
    rwa [Fin.val_mul] at this
  have h2 := dchi k hk
  have hx : ¬ PP ∣ x.val := fun hd => by
    have : x.val * x.val % PP = 0 := Nat.mod_eq_zero_of_dvd (Nat.dvd_trans hd ⟨_, rfl⟩)
    rw [this] at h1
    exact absurd h1 (by decide)
  have h3 := fermat1 prP x.val hx
  rw [← h1, ← Nat.pow_mod, show x.val * x.val = x.val ^ 2 from by rw [Nat.pow_succ, Nat.pow_one], ← Nat.pow_mul, show 2 * (4 * k + 2) = PP - 1 from by omega, h3] at h2
  unfold PP at h2
  omega
theorem one_ne : (1 : Fin PP) ≠ 0 := fun h => by
  have := congrArg Fin.val h
  have h1 : (1 : Fin PP).val = 1 % PP := rfl
  have h0 : (0 : Fin PP).val = 0 % PP := rfl
  rw [h1, h0] at this
  unfold PP at this
  omega
theorem two_ne : (1 + 1 : Fin PP) ≠ 0 := fun h => by
  have := congrArg Fin.val h
  have h1 : (1 : Fin PP).val = 1 % PP := rfl
  have h0 : (0 : Fin PP).val = 0 % PP := rfl
  rw [Fin.val_add, h1, h0] at this
  unfold PP at this
  omega
noncomputable def EC : Ed PP where
  inv := fInv
  d := dF
  i := iF
  nz := fz_nz
  hinv := fun a h => fInv_mul h
  hi := Fin.ext (by rw [Fin.val_mul]; exact iN_sq)
  h1 := one_ne
  h2 := two_ne
  hd := d_no

theorem v0 : (0 : Fin PP).val = 0 := rfl
theorem v1 : (1 : Fin PP).val = 1 := by
  have h1 : (1 : Fin PP).val = 1 % PP := rfl
  rw [h1]
  exact Nat.mod_eq_of_lt (by unfold PP; omega)
theorem gives_N {f : FuncId} {args : Array Value} {x y : Nat} {w : World} (e : x = y) (h : Calls Try.prog f args w (Gives (vN x) w)) : Calls Try.prog f args w (Gives (vN y) w) := e ▸ h
theorem gives_V {f : FuncId} {args : Array Value} {x y : Value} {w : World} (e : x = y) (h : Calls Try.prog f args w (Gives x w)) : Calls Try.prog f args w (Gives y w) := e ▸ h
theorem fAdd (a b : Fin PP) (w : World) : Calls Try.prog 19 #[vN a.val, vN b.val] w (Gives (vN (a + b).val) w) := gives_N (Fin.val_add a b).symm (Add_any a.val b.val (fT a) (fT b) w)
theorem fMul (a b : Fin PP) (w : World) : Calls Try.prog 25 #[vN a.val, vN b.val] w (Gives (vN (a * b).val) w) := gives_N (Fin.val_mul a b).symm (Mul_any a.val b.val (fT a) (fT b) w)
theorem fSub (a b : Fin PP) (w : World) : Calls Try.prog 21 #[vN a.val, vN b.val] w (Gives (vN (a - b).val) w) :=
  gives_N (by rw [Fin.sub_def, Nat.mod_eq_of_lt b.isLt, Nat.add_comm]) (Sub_any a.val b.val (fT a) (fT b) w)
theorem fNeg (a : Fin PP) (w : World) : Calls Try.prog 23 #[vN a.val] w (Gives (vN (-a).val) w) :=
  gives_N (by rw [Nat.mod_eq_of_lt a.isLt]; rfl) (Neg_any a.val (fT a) w)
theorem fInvC (a : Fin PP) (w : World) : Calls Try.prog 29 #[vN a.val] w (Gives (vN (fInv a).val) w) := by
  obtain ⟨q, hq⟩ := q_ex
  rw [fInv_val a q hq]
  exact Inv_any q hq a.val (fT a) w
theorem fOne (w : World) : Calls Try.prog 17 #[.int .u64 1] w (Gives (vN (1 : Fin PP).val) w) := gives_N v1.symm (Of_any 1 (by omega) w)
theorem fEq (a b : Fin PP) (w : World) : (Op.equalIn 10000 23 (vN a.val) (vN b.val)).run Try.prog w = .ok (decide (a = b)) w := by
  rw [eqN _ _ (fT a) (fT b) w]
  congr 1
  rw [Bool.eq_iff_iff, decide_eq_true_eq, decide_eq_true_eq]
  exact ⟨Fin.ext, congrArg Fin.val⟩
theorem fCanon (a : Fin PP) (w : World) : Calls Try.prog 15 #[vN a.val] w (Gives (.bool true) w) := by
  have h := Canon_any a.val (fT a) w
  rw [decide_eq_true (Nat.mod_eq_of_lt a.isLt).symm] at h
  exact h
theorem fD (w : World) : Calls Try.prog 45 #[] w (Gives (vN dF.val) w) := D_any w

theorem divide_any (x ox y oy : Fin PP) (r0 r1 r2 r3 : Nat) (w : World) (g g1 g2 g3 g4 : Nat) (h0 : RAt w g [r0, r1, r2, r3]) (h1 : RAt w g1 [x.val]) (h2 : RAt w g2 [ox.val]) (h3 : RAt w g3 [y.val]) (h4 : RAt w g4 [oy.val]) (n1 : g ≠ g1) (n2 : g ≠ g2) (n3 : g ≠ g3) (n4 : g ≠ g4) :
    Calls Try.prog 100 #[.pointer (some ⟨g, 0, none⟩), .pointer (some ⟨g1, 0, none⟩), .pointer (some ⟨g2, 0, none⟩), .pointer (some ⟨g3, 0, none⟩), .pointer (some ⟨g4, 0, none⟩)] w (SetsR g [(x * oy).val, (y * ox).val, (ox * oy).val, (x * y).val] w) :=
  divide_core g g1 g2 g3 g4 r0 r1 r2 r3 _ _ _ _ _ _ _ _ w (Lib.hid (fMul x oy)) (Lib.hid (fMul y ox)) (Lib.hid (fMul ox oy)) (Lib.hid (fMul x y)) (Lib.hid h0) (Lib.hid h1) (Lib.hid h2) (Lib.hid h3) (Lib.hid h4) (Lib.hid n1) (Lib.hid n2) (Lib.hid n3) (Lib.hid n4)
theorem eread_any (x y : Fin PP) (r0 r1 r2 r3 : Nat) (w : World) (g g1 : Nat) (h0 : RAt w g [r0, r1, r2, r3]) (h1 : RAt w g1 [x.val, y.val]) (n1 : g ≠ g1) :
    Calls Try.prog 80 #[.pointer (some ⟨g, 0, none⟩), .pointer (some ⟨g1, 0, none⟩)] w (SetsR g [x.val, y.val, 1, (x * y).val] w) :=
  eread_core g g1 r0 r1 r2 r3 _ _ _ w (Lib.hid fun w => Of_any 1 (by omega) w) (Lib.hid (fMul x y)) (Lib.hid h0) (Lib.hid h1) (Lib.hid n1)
/-- Four residues. -/
structure X4 where
  x : Fin PP
  y : Fin PP
  z : Fin PP
  t : Fin PP
def X4.l (p : X4) : List Nat := [p.x.val, p.y.val, p.z.val, p.t.val]
def X4.sum (p q : X4) : X4 :=
  let one := p.z * q.z
  let d := dF * (p.t * q.t)
  let x := p.x * q.y + p.y * q.x
  let y := p.y * q.y + p.x * q.x
  ⟨x * (one - d), y * (one + d), (one + d) * (one - d), x * y⟩
theorem eadd_any (p q : X4) (r0 r1 r2 r3 : Nat) (w : World) (g gp gq : Nat) (h0 : RAt w g [r0, r1, r2, r3]) (hp : RAt w gp p.l) (hq : RAt w gq q.l) :
    Calls Try.prog 81 #[.pointer (some ⟨g, 0, none⟩), .pointer (some ⟨gp, 0, none⟩), .pointer (some ⟨gq, 0, none⟩)] w (SetsR g (p.sum q).l w) :=
  eadd_core g gp gq r0 r1 r2 r3 p.x.val p.y.val p.z.val p.t.val q.x.val q.y.val q.z.val q.t.val (p.z * q.z).val dF.val (p.t * q.t).val (dF * (p.t * q.t)).val (p.x * q.y).val (p.y * q.x).val (p.x * q.y + p.y * q.x).val (p.y * q.y).val (p.x * q.x).val (p.y * q.y + p.x * q.x).val
    (p.z * q.z + dF * (p.t * q.t)).val (p.z * q.z - dF * (p.t * q.t)).val _ _ _ _ w (Lib.hid (fMul _ _)) (Lib.hid fD) (Lib.hid (fMul _ _)) (Lib.hid (fMul _ _)) (Lib.hid (fMul _ _)) (Lib.hid (fMul _ _)) (Lib.hid (fAdd _ _)) (Lib.hid (fMul _ _)) (Lib.hid (fMul _ _)) (Lib.hid (fAdd _ _)) (Lib.hid (fAdd _ _)) (Lib.hid (fSub _ _))
    (Lib.hid fun w g1 g2 g3 g4 h0 h1 h2 h3 h4 n1 n2 n3 n4 => divide_any _ _ _ _ r0 r1 r2 r3 w g g1 g2 g3 g4 h0 h1 h2 h3 h4 n1 n2 n3 n4) (Lib.hid h0) (Lib.hid hp) (Lib.hid hq)
theorem epoint_any (p : X4) (w : World) (g : Nat) (h : RAt w g p.l) : Calls Try.prog 82 #[.pointer (some ⟨g, 0, none⟩)] w (Gives (vR [(p.x * fInv p.z).val, (p.y * fInv p.z).val]) w) :=
  epoint_core g _ _ _ _ _ _ _ w (Lib.hid (fInvC p.z)) (Lib.hid (fMul _ _)) (Lib.hid (fMul _ _)) (Lib.hid h)
/-- It is the point (x, y). -/
def X4.Is (p : X4) (x y : Fin PP) : Prop := p.z ≠ 0 ∧ p.x = x * p.z ∧ p.y = y * p.z ∧ p.t = x * y * p.z
theorem X4.Is.point {p : X4} {x y : Fin PP} (h : p.Is x y) : p.x * fInv p.z = x ∧ p.y * fInv p.z = y := by
  obtain ⟨h0, h1, h2, _⟩ := h
  have hi := fInv_mul h0
  rw [h1, h2]
  generalize fInv p.z = v at *
  exact ⟨by grind, by grind⟩
theorem X4.Is.sum {p q : X4} {x1 y1 x2 y2 : Fin PP} (hp : p.Is x1 y1) (hq : q.Is x2 y2) (o1 : EC.On x1 y1) (o2 : EC.On x2 y2) : (p.sum q).Is (EC.sx x1 y1 x2 y2) (EC.sy x1 y1 x2 y2) := by
  obtain ⟨p0, p1, p2, p3⟩ := hp
  obtain ⟨q0, q1, q2, q3⟩ := hq
  have e1 := EC.sx_eq o1 o2
  have e2 := EC.sy_eq o1 o2
  have d1 := EC.den1 o1 o2
  have d2 := EC.den2 o1 o2
  have hz : p.z * q.z ≠ 0 := EC.mul_ne p0 q0
  have hd : EC.d = dF := rfl
  rw [hd] at e1 e2 d1 d2
  generalize EC.sx x1 y1 x2 y2 = X at *
  generalize EC.sy x1 y1 x2 y2 = Y at *
  have k1 : p.z * q.z + dF * (p.t * q.t) = p.z * q.z * (1 + dF * (x1 * y1 * (x2 * y2))) := by rw [p3, q3]; grind
  have k2 : p.z * q.z - dF * (p.t * q.t) = p.z * q.z * (1 - dF * (x1 * y1 * (x2 * y2))) := by rw [p3, q3]; grind
  have k3 : p.x * q.y + p.y * q.x = p.z * q.z * (x1 * y2 + y1 * x2) := by rw [p1, p2, q1, q2]; grind
  have k4 : p.y * q.y + p.x * q.x = p.z * q.z * (y1 * y2 + x1 * x2) := by rw [p1, p2, q1, q2]; grind
  unfold X4.Is X4.sum
  simp only
  rw [k1, k2, k3, k4, ← e1, ← e2]
  generalize 1 + dF * (x1 * y1 * (x2 * y2)) = B at *
  generalize 1 - dF * (x1 * y1 * (x2 * y2)) = D at *
  generalize p.z * q.z = z at *
  refine ⟨EC.mul_ne (EC.mul_ne hz d1) (EC.mul_ne hz d2), by grind, by grind, by grind⟩
end Go.Proofs.Ytgdimnbdnepbgaa
