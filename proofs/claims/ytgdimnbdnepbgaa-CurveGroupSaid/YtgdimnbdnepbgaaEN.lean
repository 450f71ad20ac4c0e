/- Points that come in; steps of quiet regions over points. No statement is proved here. -/
import Derived.Test.YtgdimnbdnepbgaaEM
import Derived.Test.YtgdimnbdnepbgaaLx
import Derived.ChangeSame
namespace Go.Proofs.Ytgdimnbdnepbgaa
open Go.RowKit
set_option linter.unusedVariables false
set_option maxRecDepth 40000
set_option linter.unusedSimpArgs false

section
variable {ops : Array Oper} {rest : List Oper} {o : Oper} {a : Act} {w0 : World} {Q : Act → Prop}
theorem wq_loadP (hw : Region.wanted o (yielded ops a.tmps) = true) (x : Operand) (ho : o.op = .load 35 x) (g m n : Nat) (hx : a.eval x = .pointer (some ⟨g, 0, none⟩)) (hr : RAt w0 g [m, n]) (h : WQ Try.prog ops (CB w0) Q rest (a.put o.dst (vR [m, n]))) : WQ Try.prog ops (CB w0) Q (o :: rest) a :=
  ⟨qb_val hw _ (fun w hk => exec_loadP x ho g m n hx (hr.keep hk)) h.out⟩
theorem wq_loadF (hw : Region.wanted o (yielded ops a.tmps) = true) (x : Operand) (ho : o.op = .load 23 x) (g i off : Nat) (he : off = 32 * i) (l : List Nat) (n : Nat) (hx : a.eval x = .pointer (some ⟨g, off, none⟩)) (hr : RAt w0 g l) (hn : l[i]? = some n) (h : WQ Try.prog ops (CB w0) Q rest (a.put o.dst (vN n))) : WQ Try.prog ops (CB w0) Q (o :: rest) a :=
  ⟨qb_val hw _ (fun w hk => exec_loadF x ho g i off he l n hx (hr.keep hk) hn) h.out⟩
theorem wq_load22 (hw : Region.wanted o (yielded ops a.tmps) = true) (x : Operand) (ho : o.op = .load 22 x) (g n : Nat) (hx : a.eval x = .pointer (some ⟨g, 0, none⟩)) (hr : RAt w0 g [n]) (h : WQ Try.prog ops (CB w0) Q rest (a.put o.dst (vN n))) : WQ Try.prog ops (CB w0) Q (o :: rest) a :=
  ⟨qb_val hw _ (fun w hk => exec_load22 x ho g 0 0 rfl [n] n hx (hr.keep hk) rfl) h.out⟩
theorem wq_field (hw : Region.wanted o (yielded ops a.tmps) = true) (t : TypeId) (x : Operand) (i : Nat) (ho : o.op = .fieldAddr t x i) (g off : Nat) (hx : a.eval x = .pointer (some ⟨g, 0, none⟩)) (hr : ∀ w, (Instr.fieldAt t (.pointer (some ⟨g, 0, none⟩)) i).run Try.prog w = .ok (.pointer (some ⟨g, off, none⟩)) w)
    (h : WQ Try.prog ops (CB w0) Q rest (a.put o.dst (.pointer (some ⟨g, off, none⟩)))) : WQ Try.prog ops (CB w0) Q (o :: rest) a :=
  ⟨qb_val hw _ (fun w _ => exec_field t x i ho g off hx hr) h.out⟩
theorem wq_buildc (hw : Region.wanted o (yielded ops a.tmps) = true) (t : TypeId) (parts : Array (Nat × Operand)) (v : Value) (ho : o.op = .build t parts) (hr : ∀ w, (Instr.build t (parts.map fun (i, x) => (i, a.eval x))).run Try.prog w = .ok v w) (h : WQ Try.prog ops (CB w0) Q rest (a.put o.dst v)) : WQ Try.prog ops (CB w0) Q (o :: rest) a :=
  ⟨qb_val hw _ (fun w _ => exec_buildc ho (hr w)) h.out⟩
theorem exec_eqP {w : World} {m n m' n' : Nat} {b : Bool} (x y : Operand) (ho : o.op = .binOp .eql 35 x y 35) (hx : a.eval x = vR [m, n]) (hy : a.eval y = vR [m', n']) (hb : (Op.equalIn 10000 35 (vR [m, n]) (vR [m', n'])).run Try.prog w = .ok b w) : (execOp a.eval o).run Try.prog w = .ok (.value (.bool b)) w := by
  have hg : ∀ (x y : Operand), (eqGuard .eql 35 x y (vR [m, n]) (vR [m', n'])).run Try.prog w = .ok () w := fun x y => run_eqGuard_agg w .eql 35 x y _ _ Try.eqGuardType35
  have hbin : (binOp .eql 35 (vR [m, n]) (vR [m', n'])).run Try.prog w = .ok (.bool b) w := by
    show (do pure (.bool (← Op.equal 35 (vR [m, n]) (vR [m', n']))) : Sem Value).run Try.prog w = _
    rw [Sem.run_bind, show (Op.equal 35 (vR [m, n]) (vR [m', n'])) = Op.equalIn 10000 35 (vR [m, n]) (vR [m', n']) from rfl, hb]
    rfl
  unfold execOp
  simp only [ho, hx, hy, Sem.run_bind, Sem.run_pure, Result.andThen_ok, hg, hbin]
theorem exec_neqP {w : World} {m n m' n' : Nat} {b : Bool} (x y : Operand) (ho : o.op = .binOp .neq 35 x y 35) (hx : a.eval x = vR [m, n]) (hy : a.eval y = vR [m', n']) (hb : (Op.equalIn 10000 35 (vR [m, n]) (vR [m', n'])).run Try.prog w = .ok b w) : (execOp a.eval o).run Try.prog w = .ok (.value (.bool (!b))) w := by
  have hg : ∀ (x y : Operand), (eqGuard .neq 35 x y (vR [m, n]) (vR [m', n'])).run Try.prog w = .ok () w := fun x y => run_eqGuard_agg w .neq 35 x y _ _ Try.eqGuardType35
  have hbin : (binOp .neq 35 (vR [m, n]) (vR [m', n'])).run Try.prog w = .ok (.bool (!b)) w := by
    show (do pure (.bool (!(← Op.equal 35 (vR [m, n]) (vR [m', n'])))) : Sem Value).run Try.prog w = _
    rw [Sem.run_bind, show (Op.equal 35 (vR [m, n]) (vR [m', n'])) = Op.equalIn 10000 35 (vR [m, n]) (vR [m', n']) from rfl, hb]
    rfl
  unfold execOp
  simp only [ho, hx, hy, Sem.run_bind, Sem.run_pure, Result.andThen_ok, hg, hbin]
theorem wq_eqP (hw : Region.wanted o (yielded ops a.tmps) = true) (x y : Operand) (ho : o.op = .binOp .eql 35 x y 35) (m n m' n' : Nat) (hx : a.eval x = vR [m, n]) (hy : a.eval y = vR [m', n']) (b : Bool) (hb : ∀ w, (Op.equalIn 10000 35 (vR [m, n]) (vR [m', n'])).run Try.prog w = .ok b w) (h : WQ Try.prog ops (CB w0) Q rest (a.put o.dst (.bool b))) : WQ Try.prog ops (CB w0) Q (o :: rest) a :=
  ⟨qb_val hw _ (fun w _ => exec_eqP x y ho hx hy (hb w)) h.out⟩
theorem wq_neqP (hw : Region.wanted o (yielded ops a.tmps) = true) (x y : Operand) (ho : o.op = .binOp .neq 35 x y 35) (m n m' n' : Nat) (hx : a.eval x = vR [m, n]) (hy : a.eval y = vR [m', n']) (b b' : Bool) (hb : ∀ w, (Op.equalIn 10000 35 (vR [m, n]) (vR [m', n'])).run Try.prog w = .ok b w) (hb' : (!b) = b') (h : WQ Try.prog ops (CB w0) Q rest (a.put o.dst (.bool b'))) : WQ Try.prog ops (CB w0) Q (o :: rest) a :=
  ⟨qb_val hw _ (fun w _ => by rw [← hb']; exact exec_neqP x y ho hx hy (hb w)) h.out⟩
end
theorem run_eq36 (m n : Int) (b : Bool) (hb : (m == n) = b) (w : World) : (binOp .eql 36 (.int .i64 m) (.int .i64 n)).run Try.prog w = .ok (.bool b) w := by
  subst hb
  kernel_rfl
theorem eqP_same (m n : Nat) (w : World) : (Op.equalIn 10000 35 (vR [m, n]) (vR [m, n])).run Try.prog w = .ok true w := by
  have hk : Try.prog.keyTypeAt 3 35 = true := by kernel_rfl
  have hf : ∀ m n, (vR [m, n]).formed Try.prog 35 = true := by
    intro m n
    have hc : Try.prog.cellsOf 35 = 64 := by kernel_rfl
    have hl : (bcs (encs [m, n])).length = 64 := by rw [bcs_len, encs_len]; rfl
    simp [Value.formed, vR, hc, hl]
  obtain ⟨r, hr, hiff⟩ := run_equalIn_deep (P := Try.prog) 9997 3 35 hk w 3 3 _ _ _ _ (hf m n) (hf m n) (keyLits35 m n) (keyLits35 m n)
  rw [hr, hiff.2 rfl]

section
variable {H : Type} {enc : TypeId × Value → H} {P : Program} {w : World} {base : Nat} {spare : Nat → Bool} {held : Bool}
theorem open_cells {n e fuel : Nat} {t : TypeId} {cs : List Value} {x : DataW H × List MemPlace} (ht : P.underlying t = some (.array n e)) (he : P.underlying e = some (.int .u8)) (hce : P.cellsOf e = 1) (hct : P.cellsOf t = n)
    (hf : DataW.trod enc P w base spare held fuel t cs = some x) : ∃ l : List UInt8, l.length = n ∧ cs = bcs l := by
  obtain ⟨xs, m, _, _, hl, hxl, hel⟩ := DataW.trod_array ht hf
  have hcs : ∀ i (hi : i < cs.length), ∃ b : UInt8, cs[i] = bc b := by
    intro i hi
    have h1 := hel i (by omega)
    have hd : (cs.drop (i * P.cellsOf e)).take (P.cellsOf e) = [cs[i]] := by
      rw [hce, Nat.mul_one, List.drop_eq_getElem_cons hi]
      simp only [List.take_succ_cons, List.take_zero]
    rw [hd, List.getElem?_eq_getElem (by omega)] at h1
    obtain ⟨z, e0, _, wz⟩ := DataW.trod_int he h1
    simp only [List.cons.injEq, and_true] at e0
    have hb := bounds_u8 wz
    refine ⟨UInt8.ofNat z.toNat, ?_⟩
    rw [e0]
    unfold bc
    rw [UInt8.toNat_ofNat']
    congr 1
    omega
  refine ⟨cs.map (fun v => match v with | .int _ z => UInt8.ofNat z.toNat | _ => 0), by simp; omega, ?_⟩
  apply List.ext_getElem
  · simp [bcs]
  · intro i h1 h2
    obtain ⟨b, hb⟩ := hcs i h1
    simp only [bcs, List.map_map, List.getElem_map, Function.comp_def, hb]
    simp [bc]
end
/-- A point's numbers that came in. -/
theorem open_pt {H : Type} {enc' : TypeId × Value → H} {w : World} {base b0 : Nat} {spare : Nat → Bool} {held : Bool} {r : Reach} {v : Value} {d : DataW H} {p : List MemPlace}
    (hv : Value.okWide Try.prog w r b0 35 v) (h : DataW.Trod enc' Try.prog w base spare held 35 v d p) : ∃ X Y : Nat, X < TT ∧ Y < TT ∧ v = vR [X, Y] := by
  have ho : ∃ cs, v = .agg cs ∧ cs.size = Try.prog.cellsOf 35 := by
    simp only [Value.okWide, Try.underlying35] at hv
    obtain ⟨cs, h1, h2, _⟩ := hv
    exact ⟨cs, h1, h2⟩
  obtain ⟨cs, rfl, hsz⟩ := ho
  obtain ⟨fuel, hf⟩ := h
  obtain ⟨y0, y1, n, _, hl, h0, h1⟩ := Go.ChangeShapes.trod_struct2 Try.underlying35 hf
  obtain ⟨l0, n0, e0⟩ := open_cells under23 Try.underlying5 (by kernel_rfl) (by kernel_rfl) h0
  obtain ⟨l1, n1, e1⟩ := open_cells under23 Try.underlying5 (by kernel_rfl) (by kernel_rfl) h1
  have h23 : Try.prog.cellsOf 23 = 32 := by kernel_rfl
  have h35 : Try.prog.cellsOf 35 = 64 := by kernel_rfl
  refine ⟨nv l0, nv l1, nv_lt l0, nv_lt l1, ?_⟩
  unfold vR
  rw [encs, encs_one, enc_nv l0 n0, enc_nv l1 n1, bcs_append, ← e0, ← e1]
  congr 1
  apply Array.toList_inj.1
  show cs.toList = (cs.toList.drop 0).take (Try.prog.cellsOf 23) ++ (cs.toList.drop 32).take (Try.prog.cellsOf 23)
  rw [h23, List.drop_zero]
  have hlen : cs.toList.length = 64 := by rw [Array.length_toList, hsz, h35]
  rw [List.take_of_length_le (l := cs.toList.drop 32) (by rw [List.length_drop]; omega), List.take_append_drop]
end Go.Proofs.Ytgdimnbdnepbgaa
