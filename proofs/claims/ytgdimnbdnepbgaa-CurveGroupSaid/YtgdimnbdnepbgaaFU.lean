/- Regions whose order is drawn and that only read old memory: steps; numbers in rows and compared. No statement is proved here. -/
import Derived.Test.YtgdimnbdnepbgaaFT
namespace Go.Proofs.Ytgdimnbdnepbgaa
open Go.RowKit
set_option linter.unusedVariables false
set_option maxRecDepth 40000

/-- A number lies in row g. -/
def NAt (w : World) (g n : Nat) : Prop := ∃ t, w.heap[g]? = some (.cells (bcs (enc n)).toArray t (0, 0))
theorem NAt.lt {w : World} {g n : Nat} (h : NAt w g n) : g < w.heap.size := by
  obtain ⟨t, ht⟩ := h
  exact (Array.getElem?_eq_some_iff.1 ht).1
theorem NAt.below {w w' : World} {g n B : Nat} (h : NAt w g n) (hb : Below B w w') (hg : g < B) : NAt w' g n := by
  obtain ⟨t, ht⟩ := h
  exact ⟨t, (hb.block g hg).trans ht⟩
theorem NAt.keep {w w' : World} {g n : Nat} (h : NAt w g n) (hb : Below w.heap.size w w') : NAt w' g n := h.below hb h.lt
theorem NAt.grown {w w' : World} {g n : Nat} {row : Option Nat} (h : NAt w g n) (hb : w.grownBy w' row) (hg : some g ≠ row) : NAt w' g n := by
  have := h.lt
  obtain ⟨t, ht⟩ := h
  exact ⟨t, (hb.block g this hg).trans ht⟩
theorem NAt.cells {w : World} {g n : Nat} (h : NAt w g n) : ∀ i u, (bcs (enc n))[i]? = some u → w.cell? ⟨g, 0 + i, none⟩ = some u := by
  obtain ⟨t, ht⟩ := h
  intro i u hu
  rw [Nat.zero_add]
  exact row_cells ht i u (by simpa using hu)
theorem bcs_enc_len (n : Nat) : (bcs (enc n)).length = 32 := by rw [bcs_len, enc_len]

theorem exec_load23 {o : Oper} {a : Act} {w : World} (x : Operand) (ho : o.op = .load 23 x) (g n : Nat) (hx : a.eval x = .pointer (some ⟨g, 0, none⟩)) (hr : NAt w g n) : (execOp a.eval o).run Try.prog w = .ok (.value (vN n)) w := by
  have hl : (loadCells ⟨g, 0, none⟩ (bcs (enc n)).length).run Try.prog w = .ok (bcs (enc n)).toArray w :=
    run_loadCells_list (P := Try.prog) w ⟨g, 0, none⟩ (bcs (enc n)) (fun j v hv => by
      have hadd : (⟨g, 0, none⟩ : Addr).add j = ⟨g, 0 + j, none⟩ := by unfold Addr.add; split <;> simp_all
      rw [hadd]
      exact hr.cells j v hv)
  have hagg : (isAgg 23).run Try.prog w = .ok true w := by
    unfold isAgg
    rw [Sem.run_bind, run_underlying under23 w]
    rfl
  have hq : ∃ i, Try.prog.info? 23 = some i ∧ i.size = 32 := by
    have := size23
    cases h : Try.prog.info? 23 with
    | none => rw [h] at this; simp at this
    | some i => exact ⟨i, rfl, by rw [h] at this; simpa using this⟩
  obtain ⟨i, hi, hs⟩ := hq
  have hrun : (Instr.loadAt 23 (.pointer (some ⟨g, 0, none⟩))).run Try.prog w = .ok (vN n) w := by
    rw [bcs_enc_len] at hl
    simp [Instr.loadAt, Instr.sureAddr, loadVar, Sem.run_bind, hagg, sizeOf, typeInfo, hi, hs, hl]
    rfl
  unfold execOp
  simp only [ho, hx, Sem.run_bind, Sem.run_pure, Result.andThen_ok, hrun]
theorem exec_call {P : Program} {o : Oper} {a : Act} {w : World} (f : FuncId) (xs : Array Operand) (ts : Array TypeId) (ho : o.op = .call { callee := .value (.func f), args := xs, argTypes := ts }) (args : Array Value) (hx : xs.map a.eval = args) (hcf : ∀ w, (callFunc f args).run P w = .ok (.enter f args) w) : (execOp a.eval o).run P w = .ok (.enter f args) w := by
  unfold execOp
  simp only [ho, resolve, hx]
  simp only [Act.eval, Deferred.ofValue, Sem.run_bind, Sem.run_pure, Result.andThen_ok, invoke]
  simpa using hcf w
theorem keyLits23 (l : List UInt8) (hl : l.length = 32) : Try.prog.keyLits 2 23 (Value.agg (bcs l).toArray).cells.toList = some (l.map fun b => Lit.int .u8 (b.toNat : Int)) := by
  have h := keyLits_ints (P := Try.prog) (t := 23) (e := 5) (n := 32) (k := .u8) under23 Try.underlying5 (by kernel_rfl) (by kernel_rfl) (l.map fun b => (b.toNat : Int)) (by simpa using hl) (wf8 l)
  rw [← bcs_ints] at h
  rw [show (Value.agg (bcs l).toArray).cells.toList = bcs l from rfl, h, List.map_map]
  rfl
theorem lits_inj (a b : List UInt8) (h : (a.map fun b => Lit.int .u8 (b.toNat : Int)) = b.map fun b => Lit.int .u8 (b.toNat : Int)) : a = b := by
  induction a generalizing b with
  | nil => cases b with
    | nil => rfl
    | cons _ _ => simp at h
  | cons x a ih => cases b with
    | nil => simp at h
    | cons y b =>
      simp only [List.map_cons, List.cons.injEq, Lit.int.injEq, true_and] at h
      rw [ih b h.2, UInt8.toNat_inj.1 (by omega : x.toNat = y.toNat)]
theorem eq23 (a b : List UInt8) (ha : a.length = 32) (hb : b.length = 32) (w : World) : (Op.equalIn 10000 23 (.agg (bcs a).toArray) (.agg (bcs b).toArray)).run Try.prog w = .ok (decide (a = b)) w := by
  have hk : Try.prog.keyTypeAt 2 23 = true := by kernel_rfl
  have hf : ∀ l : List UInt8, l.length = 32 → (Value.agg (bcs l).toArray).formed Try.prog 23 = true := by
    intro l hl
    have hc : Try.prog.cellsOf 23 = 32 := by kernel_rfl
    simp [Value.formed, hc, bcs_len, hl]
  obtain ⟨r, hr, hiff⟩ := run_equalIn_deep (P := Try.prog) 9998 2 23 hk w 2 2 _ _ _ _ (hf a ha) (hf b hb) (keyLits23 a ha) (keyLits23 b hb)
  rw [hr]
  congr 1
  by_cases h : a = b
  · subst h
    rw [decide_eq_true rfl]
    exact hiff.2 rfl
  · rw [decide_eq_false h]
    cases r
    · rfl
    · exact absurd (lits_inj a b (hiff.1 rfl)) h
theorem eqN (m n : Nat) (hm : m < TT) (hn : n < TT) (w : World) : (Op.equalIn 10000 23 (vN m) (vN n)).run Try.prog w = .ok (decide (m = n)) w := by
  have h := eq23 (enc m) (enc n) (enc_len m) (enc_len n) w
  rw [show (Value.agg (bcs (enc m)).toArray) = vN m from rfl, show (Value.agg (bcs (enc n)).toArray) = vN n from rfl] at h
  rw [h]
  congr 1
  rw [Bool.eq_iff_iff, decide_eq_true_eq, decide_eq_true_eq]
  exact ⟨fun h => enc_inj hm hn h, fun h => by rw [h]⟩
theorem eqN_same (n : Nat) (w : World) : (Op.equalIn 10000 23 (vN n) (vN n)).run Try.prog w = .ok true w := by
  have h := eq23 (enc n) (enc n) (enc_len n) (enc_len n) w
  rw [decide_eq_true rfl] at h
  exact h

section
variable {P : Program} {ops : Array Oper} {rest : List Oper} {o : Oper} {a : Act} {w0 : World} {Q : Act → Prop}
abbrev CB (w0 : World) : World → Prop := fun w' => Below w0.heap.size w0 w'
theorem qb_val (hw : Region.wanted o (yielded ops a.tmps) = true) (v : Value) (hv : ∀ w, CB w0 w → (execOp a.eval o).run P w = .ok (.value v) w) (h : wpQuiet P ops (CB w0) Q rest (a.put o.dst v)) : wpQuiet P ops (CB w0) Q (o :: rest) a :=
  wpQuiet_step fun K hK => by
    rw [if_pos hw]
    exact ⟨v, fun w hw' => by unfold Oper.quietAt; rw [hv w hw']; exact ⟨rfl, rfl⟩, hK _ h⟩
theorem qb_skip (hw : Region.wanted o (yielded ops a.tmps) = false) (h : wpQuiet P ops (CB w0) Q rest (a.put o.dst undef)) : wpQuiet P ops (CB w0) Q (o :: rest) a :=
  wpQuiet_step fun K hK => by
    rw [if_neg (by rw [hw]; exact Bool.false_ne_true)]
    exact hK _ h
theorem qb_call (hw : Region.wanted o (yielded ops a.tmps) = true) (f : FuncId) (xs : List Operand) (ts : Array TypeId) (ho : o.op = .call { callee := .value (.func f), args := xs.toArray, argTypes := ts }) (args : List Value) (hx : xs.map a.eval = args) (hcf : ∀ w, (callFunc f args.toArray).run P w = .ok (.enter f args.toArray) w)
    (v : Value) (hc : ∀ w, Calls P f args.toArray w (Gives v w)) (h : wpQuiet P ops (CB w0) Q rest (a.put o.dst v)) : wpQuiet P ops (CB w0) Q (o :: rest) a :=
  wpQuiet_step fun K hK => by
    rw [if_pos hw]
    refine ⟨v, fun w hw' => ?_, hK _ h⟩
    unfold Oper.quietAt
    rw [exec_call f xs.toArray ts ho args.toArray (by rw [List.map_toArray, hx]) hcf]
    refine ⟨rfl, (hc w).mono fun e w'' hg => ⟨hg.1, ?_⟩⟩
    exact hw'.trans (hg.2.mono hw'.size)
theorem qb_move (hw : Region.wanted o (yielded ops a.tmps) = true) (x : Operand) (ho : o.op = .move x) (v : Value) (hx : a.eval x = v) (h : wpQuiet P ops (CB w0) Q rest (a.put o.dst v)) : wpQuiet P ops (CB w0) Q (o :: rest) a :=
  qb_val hw v (fun w _ => by unfold execOp; simp only [ho, hx, Sem.run_pure]) h
theorem qb_assign (hw : Region.wanted o (yielded ops a.tmps) = true) (x : Operand) (ho : o.op = .assign x) (v : Value) (hx : a.eval x = v) (h : wpQuiet P ops (CB w0) Q rest (a.put o.dst v)) : wpQuiet P ops (CB w0) Q (o :: rest) a :=
  qb_val hw v (fun w _ => by unfold execOp; simp only [ho, hx, Sem.run_pure]) h
theorem qb_pick (hw : Region.wanted o (yielded ops a.tmps) = true) (c x y : Operand) (ho : o.op = .pick c x y) (b : Bool) (hc : a.eval c = .bool b) (v : Value) (hx : (if b then a.eval x else a.eval y) = v) (h : wpQuiet P ops (CB w0) Q rest (a.put o.dst v)) : wpQuiet P ops (CB w0) Q (o :: rest) a :=
  qb_val hw v (fun w _ => by unfold execOp; simp only [ho, hc, asBool, Sem.run_bind, Sem.run_pure, Result.andThen_ok, hx]) h
theorem qb_not (hw : Region.wanted o (yielded ops a.tmps) = true) (t : TypeId) (x : Operand) (ho : o.op = .unOp .not t x) (b : Bool) (hx : a.eval x = .bool b) (h : wpQuiet P ops (CB w0) Q rest (a.put o.dst (.bool (!b)))) : wpQuiet P ops (CB w0) Q (o :: rest) a :=
  qb_val hw _ (fun w _ => by unfold execOp; simp only [ho, hx]; rfl) h
end
section
variable {ops : Array Oper} {rest : List Oper} {o : Oper} {a : Act} {w0 : World} {Q : Act → Prop}
theorem qb_load (hw : Region.wanted o (yielded ops a.tmps) = true) (x : Operand) (ho : o.op = .load 23 x) (g n : Nat) (hx : a.eval x = .pointer (some ⟨g, 0, none⟩)) (hr : NAt w0 g n) (h : wpQuiet Try.prog ops (CB w0) Q rest (a.put o.dst (vN n))) : wpQuiet Try.prog ops (CB w0) Q (o :: rest) a :=
  qb_val hw _ (fun w hk => exec_load23 x ho g n hx (hr.keep hk)) h
theorem exec_eq23 {w : World} {m n : Nat} {b : Bool} (x y : Operand) (ho : o.op = .binOp .eql 23 x y 23) (hx : a.eval x = vN m) (hy : a.eval y = vN n) (hb : (Op.equalIn 10000 23 (vN m) (vN n)).run Try.prog w = .ok b w) : (execOp a.eval o).run Try.prog w = .ok (.value (.bool b)) w := by
  have hg : ∀ (x y : Operand), (eqGuard .eql 23 x y (vN m) (vN n)).run Try.prog w = .ok () w := fun x y => run_eqGuard_agg w .eql 23 x y _ _ Try.eqGuardType23
  have hbin : (binOp .eql 23 (vN m) (vN n)).run Try.prog w = .ok (.bool b) w := by
    show (do pure (.bool (← Op.equal 23 (vN m) (vN n))) : Sem Value).run Try.prog w = _
    rw [Sem.run_bind, show (Op.equal 23 (vN m) (vN n)) = Op.equalIn 10000 23 (vN m) (vN n) from rfl, hb]
    rfl
  unfold execOp
  simp only [ho, hx, hy, Sem.run_bind, Sem.run_pure, Result.andThen_ok, hg, hbin]
theorem exec_neq23 {w : World} {m n : Nat} {b : Bool} (x y : Operand) (ho : o.op = .binOp .neq 23 x y 23) (hx : a.eval x = vN m) (hy : a.eval y = vN n) (hb : (Op.equalIn 10000 23 (vN m) (vN n)).run Try.prog w = .ok b w) : (execOp a.eval o).run Try.prog w = .ok (.value (.bool (!b))) w := by
  have hg : ∀ (x y : Operand), (eqGuard .neq 23 x y (vN m) (vN n)).run Try.prog w = .ok () w := fun x y => run_eqGuard_agg w .neq 23 x y _ _ Try.eqGuardType23
  have hbin : (binOp .neq 23 (vN m) (vN n)).run Try.prog w = .ok (.bool (!b)) w := by
    show (do pure (.bool (!(← Op.equal 23 (vN m) (vN n)))) : Sem Value).run Try.prog w = _
    rw [Sem.run_bind, show (Op.equal 23 (vN m) (vN n)) = Op.equalIn 10000 23 (vN m) (vN n) from rfl, hb]
    rfl
  unfold execOp
  simp only [ho, hx, hy, Sem.run_bind, Sem.run_pure, Result.andThen_ok, hg, hbin]
theorem qb_eq (hw : Region.wanted o (yielded ops a.tmps) = true) (x y : Operand) (ho : o.op = .binOp .eql 23 x y 23) (m n : Nat) (hx : a.eval x = vN m) (hy : a.eval y = vN n) (b : Bool) (hb : ∀ w, (Op.equalIn 10000 23 (vN m) (vN n)).run Try.prog w = .ok b w) (h : wpQuiet Try.prog ops (CB w0) Q rest (a.put o.dst (.bool b))) : wpQuiet Try.prog ops (CB w0) Q (o :: rest) a :=
  qb_val hw _ (fun w _ => exec_eq23 x y ho hx hy (hb w)) h
theorem qb_neq (hw : Region.wanted o (yielded ops a.tmps) = true) (x y : Operand) (ho : o.op = .binOp .neq 23 x y 23) (m n : Nat) (hx : a.eval x = vN m) (hy : a.eval y = vN n) (b b' : Bool) (hb : ∀ w, (Op.equalIn 10000 23 (vN m) (vN n)).run Try.prog w = .ok b w) (hb' : (!b) = b') (h : wpQuiet Try.prog ops (CB w0) Q rest (a.put o.dst (.bool b'))) : wpQuiet Try.prog ops (CB w0) Q (o :: rest) a :=
  qb_val hw _ (fun w _ => by rw [← hb']; exact exec_neq23 x y ho hx hy (hb w)) h
theorem run_build0 (w : World) : (Instr.build 23 #[]).run Try.prog w = .ok (vN 0) w := by kernel_rfl
theorem qb_zero (hw : Region.wanted o (yielded ops a.tmps) = true) (ho : o.op = .build 23 #[]) (h : wpQuiet Try.prog ops (CB w0) Q rest (a.put o.dst (vN 0))) : wpQuiet Try.prog ops (CB w0) Q (o :: rest) a :=
  qb_val hw _ (fun w _ => by
    unfold execOp
    simp only [ho, List.map_toArray, List.map_nil, Sem.run_bind, Sem.run_pure, Result.andThen_ok]
    rw [run_build0 w]
    rfl) h
/-- Two Bools compared. -/
theorem qb_eqb {P : Program} (hw : Region.wanted o (yielded ops a.tmps) = true) (x y : Operand) (ho : o.op = .binOp .eql 4 x y 4) (m n b : Bool) (hx : a.eval x = .bool m) (hy : a.eval y = .bool n) (hb : (m == n) = b) (h : wpQuiet Try.prog ops (CB w0) Q rest (a.put o.dst (.bool b))) : wpQuiet Try.prog ops (CB w0) Q (o :: rest) a :=
  qb_val hw _ (fun w _ => by
    subst hb
    unfold execOp
    simp only [ho, hx, hy]
    cases m <;> cases n <;> kernel_rfl) h
theorem region_qb {P : Program} {id : Nat} {Q : Exit → Act → World → Prop} {a : Act} {w : World} {l : List Oper} (hm : P.follows .mixedOrders = true) (hB : Region.lexB .any l.toArray = true)
    (h : wpQuiet P l.toArray (CB w) (fun a' => ∀ w', Below w.heap.size w w' → Q .normal a' w') l a) : (Code.region id l.toArray true).wp P Q a w :=
  wp_region_quiet (C := CB w) hm hB ⟨rfl, rfl, rfl, Nat.le_refl _, fun _ _ => rfl⟩ (by simpa using h)
end

/-! The functions have bodies. -/
theorem callEnter {P : Program} {f : FuncId} {fn : Func} {c : Code} (hf : P.funcs[f]? = some fn) (hname : (fn.name == "runtime.NumGoroutine") = false) (hb : fn.body = some c) (args : Array Value) (w : World) :
    (callFunc f args).run P w = .ok (.enter f args) w := by
  have h1 : fn.name ≠ "runtime.NumGoroutine" := by simpa using hname
  simp [callFunc, hf, h1, hb]
theorem CF9 (args : Array Value) (w : World) : (callFunc 11 args).run Try.prog w = .ok (.enter 11 args) w := callEnter Try.func11 (by kernel_rfl) rfl args w
theorem CF10 (args : Array Value) (w : World) : (callFunc 10 args).run Try.prog w = .ok (.enter 10 args) w := callEnter Try.func10 (by kernel_rfl) rfl args w
theorem CF11 (args : Array Value) (w : World) : (callFunc 13 args).run Try.prog w = .ok (.enter 13 args) w := callEnter Try.func13 (by kernel_rfl) rfl args w
theorem CF12 (args : Array Value) (w : World) : (callFunc 15 args).run Try.prog w = .ok (.enter 15 args) w := callEnter Try.func15 (by kernel_rfl) rfl args w
theorem CF13 (args : Array Value) (w : World) : (callFunc 23 args).run Try.prog w = .ok (.enter 23 args) w := callEnter Try.func23 (by kernel_rfl) rfl args w
theorem CF14 (args : Array Value) (w : World) : (callFunc 17 args).run Try.prog w = .ok (.enter 17 args) w := callEnter Try.func17 (by kernel_rfl) rfl args w
theorem CF15 (args : Array Value) (w : World) : (callFunc 29 args).run Try.prog w = .ok (.enter 29 args) w := callEnter Try.func29 (by kernel_rfl) rfl args w
theorem CF16 (args : Array Value) (w : World) : (callFunc 27 args).run Try.prog w = .ok (.enter 27 args) w := callEnter Try.func27 (by kernel_rfl) rfl args w
theorem CF17 (args : Array Value) (w : World) : (callFunc 31 args).run Try.prog w = .ok (.enter 31 args) w := callEnter Try.func31 (by kernel_rfl) rfl args w
theorem CF18 (args : Array Value) (w : World) : (callFunc 33 args).run Try.prog w = .ok (.enter 33 args) w := callEnter Try.func33 (by kernel_rfl) rfl args w
theorem CF23 (args : Array Value) (w : World) : (callFunc 19 args).run Try.prog w = .ok (.enter 19 args) w := callEnter Try.func19 (by kernel_rfl) rfl args w
theorem CF25 (args : Array Value) (w : World) : (callFunc 21 args).run Try.prog w = .ok (.enter 21 args) w := callEnter Try.func21 (by kernel_rfl) rfl args w
theorem CF28 (args : Array Value) (w : World) : (callFunc 25 args).run Try.prog w = .ok (.enter 25 args) w := callEnter Try.func25 (by kernel_rfl) rfl args w
theorem CF34 (args : Array Value) (w : World) : (callFunc 61 args).run Try.prog w = .ok (.enter 61 args) w := callEnter Try.func61 (by kernel_rfl) rfl args w
theorem CF35 (args : Array Value) (w : World) : (callFunc 62 args).run Try.prog w = .ok (.enter 62 args) w := callEnter Try.func62 (by kernel_rfl) rfl args w
theorem CF36 (args : Array Value) (w : World) : (callFunc 63 args).run Try.prog w = .ok (.enter 63 args) w := callEnter Try.func63 (by kernel_rfl) rfl args w
end Go.Proofs.Ytgdimnbdnepbgaa
