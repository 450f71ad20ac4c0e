/- One part of an image: what the loop's body does. No statement is proved here. -/
import Derived.Test.YtfhjcfoecmbhkaaDS
import Derived.Test.YtfhjcfoecmbhkaaDF
namespace Go.Proofs.Ytfhjcfoecmbhkaa
open Go.RowKit Go.Shelf
set_option linter.unusedVariables false
set_option linter.unusedSimpArgs false
/-- The body's operations. -/
def opsS : Array Oper := #[{ dst := some 12, op := Op.load 59 (Operand.tmp 5), type := 59, pos := "sector.go:45", after := #[], guard := none }, { dst := some 13, op := Op.move (Operand.tmp 6), type := 27, pos := "sector.go:45", after := #[], guard := none }, { dst := some 14, op := Op.sliceToArrayPointer 63 (Operand.tmp 13), type := 0, pos := "sector.go:45", after := #[{ on := 1, ground := Ground.data }], guard := none }, { dst := some 15, op := Op.load 63 (Operand.tmp 14), type := 63, pos := "sector.go:45", after := #[{ on := 2, ground := Ground.data }], guard := none }, { dst := some 16, op := Op.buildSlice 59 1 #[(0, Operand.tmp 15)], type := 59, pos := "sector.go:45", after := #[{ on := 3, ground := Ground.data }], guard := none }, { dst := some 17, op := Op.call { callee := Callee.builtin Builtin.append, args := #[Operand.tmp 12, Operand.tmp 16], argTypes := #[59, 59] }, type := 59, pos := "sector.go:45", after := #[{ on := 0, ground := Ground.data }, { on := 4, ground := Ground.data }], guard := none }, { dst := none, op := Op.store 59 (Operand.tmp 5) (Operand.tmp 17), type := 0, pos := "sector.go:45", after := #[{ on := 5, ground := Ground.data }, { on := 5, ground := Ground.chain }, { on := 0, ground := Ground.phase }, { on := 1, ground := Ground.phase }, { on := 2, ground := Ground.phase }, { on := 3, ground := Ground.phase }, { on := 4, ground := Ground.phase }, { on := 5, ground := Ground.phase }], guard := none }]
section
variable {F : Fence} {n : Nat} {P : Program} {ops : Array Oper} {Q : Exit → Act → World → Prop} {a : Act} {w w' : World} {K : Act → World → Prop}
theorem wpOpIn_val {i : Nat} {oi : Oper} {v : Value} (hi : ops[i]? = some oi) (hw : Region.wanted oi (yielded ops a.tmps) = true) (hd : ∀ c, oi.op ≠ .defer c) (hab : ∀ f, oi.about P w a.eval = some f → (Fence.wide.inRound n).fn f)
    (he : (execOp a.eval oi).run P w = .ok (.value v) w') (h : K (a.put oi.dst v) w') {m : Nat} : wpOpIn (Fence.wide.inRound n) m P ops Q i K a w := by
  unfold wpOpIn
  simp only [hi, hw, if_true]
  refine ⟨hab, ?_⟩
  show oi.uponIn _ _ _ _ _ _ ((oi.semAt (some n) a.eval).run P w)
  rw [Oper.semAt_some n _ _ hd, he, Oper.uponIn_value]
  exact h
theorem wpOpIn_skp {i : Nat} {oi : Oper} (hi : ops[i]? = some oi) (hw : Region.wanted oi (yielded ops a.tmps) = true) (hd : ∀ c, oi.op ≠ .defer c) (hab : ∀ f, oi.about P w a.eval = some f → (Fence.wide.inRound n).fn f)
    (he : (execOp a.eval oi).run P w = .ok .skip w') (h : K (a.put oi.dst undef) w') {m : Nat} : wpOpIn (Fence.wide.inRound n) m P ops Q i K a w := by
  unfold wpOpIn
  simp only [hi, hw, if_true]
  refine ⟨hab, ?_⟩
  show oi.uponIn _ _ _ _ _ _ ((oi.semAt (some n) a.eval).run P w)
  rw [Oper.semAt_some n _ _ hd, he, Oper.uponIn_skip]
  exact h
theorem exec_cell59 {o : Oper} (x : Operand) (ho : o.op = .load 59 x) (g : Nat) (hx : a.eval x = .pointer (some ⟨g, 0, none⟩)) (v : Value) (hc : w.cell? ⟨g, 0, none⟩ = some v) : (execOp a.eval o).run Try.prog w = .ok (.value v) w := by
  have ha : (isAgg 59).run Try.prog w = .ok false w := Try.isAgg59 w
  unfold execOp
  simp [ho, hx, Instr.loadAt, Instr.sureAddr, loadVar, ha, hc]
theorem exec_arr63 {o : Oper} (x : Operand) (ho : o.op = .sliceToArrayPointer 63 x) (b p : Nat) (hx : a.eval x = .slice (some ⟨b, p, none⟩) 256 256) : (execOp a.eval o).run Try.prog w = .ok (.value (.pointer (some ⟨b, p, none⟩))) w := by
  unfold execOp
  simp [ho, hx, run_arr63 _ 256 256 (Nat.le_refl _) w]
theorem fold_set (l : List Value) : ∀ (k : Nat) (base : Array Value) (j : Nat), k + l.length ≤ base.size → ((l.zipIdx k).foldl (fun (cs : Array Value) (x : Value × Nat) => cs.setIfInBounds (0 + x.2) x.1) base)[j]? = if k ≤ j ∧ j < k + l.length then l[j - k]? else base[j]? := by
  induction l with
  | nil => intro k base j _; simp; omega
  | cons x l ih =>
    intro k base j hle
    simp only [List.length_cons] at hle
    rw [List.zipIdx_cons, List.foldl_cons, ih (k + 1) _ j (by simp; omega)]
    simp only [Nat.zero_add, List.length_cons]
    by_cases h1 : k + 1 ≤ j ∧ j < k + 1 + l.length
    · rw [if_pos h1, if_pos (by omega), show j - k = (j - (k + 1)) + 1 from by omega, List.getElem?_cons_succ]
    · rw [if_neg h1]
      by_cases h2 : j = k
      · subst h2
        rw [if_pos (by omega), Nat.sub_self, List.getElem?_cons_zero, Array.getElem?_setIfInBounds_self_of_lt (by omega)]
      · rw [if_neg (by omega), Array.getElem?_setIfInBounds_ne (by omega)]
theorem fill_one (base cs : Array Value) (hb : base.size = 256) (hcs : cs.size = 256) : Instr.fill (fun i => some (i * 256, 256)) base [(0, .agg cs)] = some cs := by
  unfold Instr.fill
  simp only [Nat.zero_mul, Value.cells, hcs]
  unfold Instr.fill
  rw [if_neg (by simp [hb])]
  congr 1
  rw [← Array.foldl_toList, Array.toList_zipIdx]
  apply Array.ext_getElem?
  intro j
  rw [fold_set cs.toList 0 base j (by simp [hb, hcs])]
  split
  · simp
  · rw [Array.getElem?_eq_none (by simp at *; omega), Array.getElem?_eq_none (by simp at *; omega)]
theorem run_build59 (w : World) (cs : Array Value) (hcs : cs.size = 256) : (Instr.buildSlice 59 1 #[(0, .agg cs)]).run Try.prog w = .ok (.slice (some ⟨w.heap.size, 0, none⟩) 1 1) (w.alloc (.cells cs 63)) := by
  have hz := zero63 w
  have hs := Try.sizeOf63 w
  have hu := run_underlying under59 w
  generalize zarr 256 = z at *
  have hf := fill_one ((Array.range (1 * 256)).map (fun x => z[x % z.size]!)) cs (by simp) hcs
  simp only [Instr.buildSlice, Sem.run_bind, hu, hs, Result.andThen_ok]
  rw [if_neg (by decide), if_neg (by decide)]
  simp only [Sem.run_bind, hz, Result.andThen_ok, Sem.run_pure, Value.cells]
  rw [hf]
  simp [newRow]
theorem exec_build59 {o : Oper} (x : Operand) (ho : o.op = .buildSlice 59 1 #[(0, x)]) (cs : Array Value) (hcs : cs.size = 256) (hx : a.eval x = .agg cs) : (execOp a.eval o).run Try.prog w = .ok (.value (.slice (some ⟨w.heap.size, 0, none⟩) 1 1)) (w.alloc (.cells cs 63)) := by
  unfold execOp
  simp [ho, hx, run_build59 w cs hcs]
theorem exec_app59 {o : Oper} (s x : Operand) (ho : o.op = .call { callee := .builtin .append, args := #[s, x], argTypes := #[59, 59] }) {v u v' : Value} (hs : a.eval s = v) (hx : a.eval x = u) (h : (Builtin.append_ #[59, 59] o.type #[v, u]).run Try.prog w = .ok v' w') : (execOp a.eval o).run Try.prog w = .ok (.value v') w' := by
  unfold execOp
  simp only [ho, resolve, invoke, builtin, Sem.run_bind, Sem.run_pure, Result.andThen_ok, List.map_toArray, List.map_cons, List.map_nil, hs, hx, h]
end
set_option maxRecDepth 100000 in
set_option maxHeartbeats 2000000 in
theorem split_body (l m : Nat) (Q : Exit → Act → World → Prop) (B b o : Nat) (part : List UInt8) (hpl : part.length = 256) (W w1 : World) (v : Value) (A' : Option Addr) (k' cap' : Nat) (t0 t1 t2 t3 t4 t7 t8 t9 t10 t11 t12 t13 t14 t15 t16 t17 t18 : Value)
    (h0 : W.drew.cell? ⟨B, 0, none⟩ = some v) (h0b : (W.drew.alloc (.cells (bcs part).toArray 63)).cell? ⟨B, 0, none⟩ = some v) (hld : ∀ j u, (bcs part)[j]? = some u → W.drew.cell? ⟨b, o + j, none⟩ = some u)
    (happ : (Builtin.append_ #[59, 59] 59 #[v, .slice (some ⟨W.heap.size, 0, none⟩) 1 1]).run Try.prog (W.drew.alloc (.cells (bcs part).toArray 63)) = .ok (.slice A' k' cap') w1) (hc1 : w1.cell? ⟨B, 0, none⟩ = some v) (hf1 : w1.frozen? ⟨B, 0, none⟩ = false) 
    (hQ : Q .normal { tmps := #[t0, t1, t2, t3, t4, .pointer (some ⟨B, 0, none⟩), .slice (some ⟨b, o, none⟩) 256 256, t7, t8, t9, t10, t11, v, .slice (some ⟨b, o, none⟩) 256 256, .pointer (some ⟨b, o, none⟩), .agg (bcs part).toArray, .slice (some ⟨W.heap.size, 0, none⟩) 1 1, .slice A' k' cap', t18], defers := [] } (w1.setCell ⟨B, 0, none⟩ (.slice A' k' cap'))) :
    (Code.region 4 opsS true).wpIn (Fence.wide.inRound l) m Try.prog Q { tmps := #[t0, t1, t2, t3, t4, .pointer (some ⟨B, 0, none⟩), .slice (some ⟨b, o, none⟩) 256 256, t7, t8, t9, t10, t11, t12, t13, t14, t15, t16, t17, t18], defers := [] } W := by
  refine wpIn_region_any (by kernel_rfl) ?_
  have N0123456 : wpAnyIn (Fence.wide.inRound l) m Try.prog .any opsS Q 0 #[true, true, true, true, true, true, true] { tmps := #[t0, t1, t2, t3, t4, .pointer (some ⟨B, 0, none⟩), .slice (some ⟨b, o, none⟩) 256 256, t7, t8, t9, t10, t11, v, .slice (some ⟨b, o, none⟩) 256 256, .pointer (some ⟨b, o, none⟩), .agg (bcs part).toArray, .slice (some ⟨W.heap.size, 0, none⟩) 1 1, .slice A' k' cap', t18], defers := [] } (w1.setCell ⟨B, 0, none⟩ (.slice A' k' cap')) := ⟨by kernel_rfl, hQ⟩
  have x6 : (execOp (Act.eval { tmps := #[t0, t1, t2, t3, t4, .pointer (some ⟨B, 0, none⟩), .slice (some ⟨b, o, none⟩) 256 256, t7, t8, t9, t10, t11, v, .slice (some ⟨b, o, none⟩) 256 256, .pointer (some ⟨b, o, none⟩), .agg (bcs part).toArray, .slice (some ⟨W.heap.size, 0, none⟩) 1 1, .slice A' k' cap', t18], defers := [] }) { dst := none, op := Op.store 59 (Operand.tmp 5) (Operand.tmp 17), type := 0, pos := "sector.go:45", after := #[{ on := 5, ground := Ground.data }, { on := 5, ground := Ground.chain }, { on := 0, ground := Ground.phase }, { on := 1, ground := Ground.phase }, { on := 2, ground := Ground.phase }, { on := 3, ground := Ground.phase }, { on := 4, ground := Ground.phase }, { on := 5, ground := Ground.phase }], guard := none }).run Try.prog w1 = .ok .skip (w1.setCell ⟨B, 0, none⟩ (.slice A' k' cap')) := by
    have hs : (sizeOf 59).run Try.prog w1 = .ok 1 w1 := Try.sizeOf59 w1
    go_simp
  have N012345 : wpAnyIn (Fence.wide.inRound l) m Try.prog .any opsS Q 1 #[true, true, true, true, true, true, false] { tmps := #[t0, t1, t2, t3, t4, .pointer (some ⟨B, 0, none⟩), .slice (some ⟨b, o, none⟩) 256 256, t7, t8, t9, t10, t11, v, .slice (some ⟨b, o, none⟩) 256 256, .pointer (some ⟨b, o, none⟩), .agg (bcs part).toArray, .slice (some ⟨W.heap.size, 0, none⟩) 1 1, .slice A' k' cap', t18], defers := [] } w1 := wpAnyIn_all (rs := [6]) (by kernel_rfl) (by simp) (fun i hi => by
    obtain rfl : i = 6 := by simpa using hi
    exact wpOpIn_skp rfl (by kernel_rfl) (by intro c h; cases h) (fun _ _ => trivial) x6 N0123456)
  have N01234 : wpAnyIn (Fence.wide.inRound l) m Try.prog .any opsS Q 2 #[true, true, true, true, true, false, false] { tmps := #[t0, t1, t2, t3, t4, .pointer (some ⟨B, 0, none⟩), .slice (some ⟨b, o, none⟩) 256 256, t7, t8, t9, t10, t11, v, .slice (some ⟨b, o, none⟩) 256 256, .pointer (some ⟨b, o, none⟩), .agg (bcs part).toArray, .slice (some ⟨W.heap.size, 0, none⟩) 1 1, t17, t18], defers := [] } (W.drew.alloc (.cells (bcs part).toArray 63)) := wpAnyIn_all (rs := [5]) (by kernel_rfl) (by simp) (fun i hi => by
    obtain rfl : i = 5 := by simpa using hi
    exact wpOpIn_val rfl (by kernel_rfl) (by intro c h; cases h) (fun _ _ => trivial) (exec_app59 (.tmp 12) (.tmp 16) rfl rfl rfl happ) N012345)
  have N1234 : wpAnyIn (Fence.wide.inRound l) m Try.prog .any opsS Q 3 #[false, true, true, true, true, false, false] { tmps := #[t0, t1, t2, t3, t4, .pointer (some ⟨B, 0, none⟩), .slice (some ⟨b, o, none⟩) 256 256, t7, t8, t9, t10, t11, t12, .slice (some ⟨b, o, none⟩) 256 256, .pointer (some ⟨b, o, none⟩), .agg (bcs part).toArray, .slice (some ⟨W.heap.size, 0, none⟩) 1 1, t17, t18], defers := [] } (W.drew.alloc (.cells (bcs part).toArray 63)) := wpAnyIn_all (rs := [0]) (by kernel_rfl) (by simp) (fun i hi => by
    obtain rfl : i = 0 := by simpa using hi
    exact wpOpIn_val rfl (by kernel_rfl) (by intro c h; cases h) (fun _ _ => trivial) (exec_cell59 (.tmp 5) rfl B rfl v (h0b)) N01234)
  have N0123 : wpAnyIn (Fence.wide.inRound l) m Try.prog .any opsS Q 3 #[true, true, true, true, false, false, false] { tmps := #[t0, t1, t2, t3, t4, .pointer (some ⟨B, 0, none⟩), .slice (some ⟨b, o, none⟩) 256 256, t7, t8, t9, t10, t11, v, .slice (some ⟨b, o, none⟩) 256 256, .pointer (some ⟨b, o, none⟩), .agg (bcs part).toArray, t16, t17, t18], defers := [] } W.drew := wpAnyIn_all (rs := [4]) (by kernel_rfl) (by simp) (fun i hi => by
    obtain rfl : i = 4 := by simpa using hi
    exact wpOpIn_val rfl (by kernel_rfl) (by intro c h; cases h) (fun _ _ => trivial) (exec_build59 (.tmp 15) rfl (bcs part).toArray (by simp [bcs_len, hpl]) rfl) N01234)
  have N123 : wpAnyIn (Fence.wide.inRound l) m Try.prog .any opsS Q 4 #[false, true, true, true, false, false, false] { tmps := #[t0, t1, t2, t3, t4, .pointer (some ⟨B, 0, none⟩), .slice (some ⟨b, o, none⟩) 256 256, t7, t8, t9, t10, t11, t12, .slice (some ⟨b, o, none⟩) 256 256, .pointer (some ⟨b, o, none⟩), .agg (bcs part).toArray, t16, t17, t18], defers := [] } W.drew := wpAnyIn_all (rs := [0, 4]) (by kernel_rfl) (by simp) (fun i hi => by
    have hi2 : i = 0 ∨ i = 4 := by simpa using hi
    rcases hi2 with rfl | rfl
    · exact wpOpIn_val rfl (by kernel_rfl) (by intro c h; cases h) (fun _ _ => trivial) (exec_cell59 (.tmp 5) rfl B rfl v (h0)) N0123
    · exact wpOpIn_val rfl (by kernel_rfl) (by intro c h; cases h) (fun _ _ => trivial) (exec_build59 (.tmp 15) rfl (bcs part).toArray (by simp [bcs_len, hpl]) rfl) N1234)
  have N012 : wpAnyIn (Fence.wide.inRound l) m Try.prog .any opsS Q 4 #[true, true, true, false, false, false, false] { tmps := #[t0, t1, t2, t3, t4, .pointer (some ⟨B, 0, none⟩), .slice (some ⟨b, o, none⟩) 256 256, t7, t8, t9, t10, t11, v, .slice (some ⟨b, o, none⟩) 256 256, .pointer (some ⟨b, o, none⟩), t15, t16, t17, t18], defers := [] } W.drew := wpAnyIn_all (rs := [3]) (by kernel_rfl) (by simp) (fun i hi => by
    obtain rfl : i = 3 := by simpa using hi
    exact wpOpIn_val rfl (by kernel_rfl) (by intro c h; cases h) (fun _ _ => trivial) (exec_load 63 (.tmp 14) rfl b o rfl (bcs part) hld _ under63 rfl (by rw [size63, bcs_len, hpl])) N0123)
  have N12 : wpAnyIn (Fence.wide.inRound l) m Try.prog .any opsS Q 5 #[false, true, true, false, false, false, false] { tmps := #[t0, t1, t2, t3, t4, .pointer (some ⟨B, 0, none⟩), .slice (some ⟨b, o, none⟩) 256 256, t7, t8, t9, t10, t11, t12, .slice (some ⟨b, o, none⟩) 256 256, .pointer (some ⟨b, o, none⟩), t15, t16, t17, t18], defers := [] } W.drew := wpAnyIn_all (rs := [0, 3]) (by kernel_rfl) (by simp) (fun i hi => by
    have hi2 : i = 0 ∨ i = 3 := by simpa using hi
    rcases hi2 with rfl | rfl
    · exact wpOpIn_val rfl (by kernel_rfl) (by intro c h; cases h) (fun _ _ => trivial) (exec_cell59 (.tmp 5) rfl B rfl v (h0)) N012
    · exact wpOpIn_val rfl (by kernel_rfl) (by intro c h; cases h) (fun _ _ => trivial) (exec_load 63 (.tmp 14) rfl b o rfl (bcs part) hld _ under63 rfl (by rw [size63, bcs_len, hpl])) N123)
  have N01 : wpAnyIn (Fence.wide.inRound l) m Try.prog .any opsS Q 5 #[true, true, false, false, false, false, false] { tmps := #[t0, t1, t2, t3, t4, .pointer (some ⟨B, 0, none⟩), .slice (some ⟨b, o, none⟩) 256 256, t7, t8, t9, t10, t11, v, .slice (some ⟨b, o, none⟩) 256 256, t14, t15, t16, t17, t18], defers := [] } W.drew := wpAnyIn_all (rs := [2]) (by kernel_rfl) (by simp) (fun i hi => by
    obtain rfl : i = 2 := by simpa using hi
    exact wpOpIn_val rfl (by kernel_rfl) (by intro c h; cases h) (fun _ _ => trivial) (exec_arr63 (.tmp 13) rfl b o rfl) N012)
  have N1 : wpAnyIn (Fence.wide.inRound l) m Try.prog .any opsS Q 6 #[false, true, false, false, false, false, false] { tmps := #[t0, t1, t2, t3, t4, .pointer (some ⟨B, 0, none⟩), .slice (some ⟨b, o, none⟩) 256 256, t7, t8, t9, t10, t11, t12, .slice (some ⟨b, o, none⟩) 256 256, t14, t15, t16, t17, t18], defers := [] } W.drew := wpAnyIn_all (rs := [0, 2]) (by kernel_rfl) (by simp) (fun i hi => by
    have hi2 : i = 0 ∨ i = 2 := by simpa using hi
    rcases hi2 with rfl | rfl
    · exact wpOpIn_val rfl (by kernel_rfl) (by intro c h; cases h) (fun _ _ => trivial) (exec_cell59 (.tmp 5) rfl B rfl v (h0)) N01
    · exact wpOpIn_val rfl (by kernel_rfl) (by intro c h; cases h) (fun _ _ => trivial) (exec_arr63 (.tmp 13) rfl b o rfl) N12)
  have N0 : wpAnyIn (Fence.wide.inRound l) m Try.prog .any opsS Q 6 #[true, false, false, false, false, false, false] { tmps := #[t0, t1, t2, t3, t4, .pointer (some ⟨B, 0, none⟩), .slice (some ⟨b, o, none⟩) 256 256, t7, t8, t9, t10, t11, v, t13, t14, t15, t16, t17, t18], defers := [] } W.drew := wpAnyIn_all (rs := [1]) (by kernel_rfl) (by simp) (fun i hi => by
    obtain rfl : i = 1 := by simpa using hi
    exact wpOpIn_val rfl (by kernel_rfl) (by intro c h; cases h) (fun _ _ => trivial) (by unfold execOp; rfl) N01)
  have N : wpAnyIn (Fence.wide.inRound l) m Try.prog .any opsS Q 7 #[false, false, false, false, false, false, false] { tmps := #[t0, t1, t2, t3, t4, .pointer (some ⟨B, 0, none⟩), .slice (some ⟨b, o, none⟩) 256 256, t7, t8, t9, t10, t11, t12, t13, t14, t15, t16, t17, t18], defers := [] } W.drew := wpAnyIn_all (rs := [0, 1]) (by kernel_rfl) (by simp) (fun i hi => by
    have hi2 : i = 0 ∨ i = 1 := by simpa using hi
    rcases hi2 with rfl | rfl
    · exact wpOpIn_val rfl (by kernel_rfl) (by intro c h; cases h) (fun _ _ => trivial) (exec_cell59 (.tmp 5) rfl B rfl v (h0)) N0
    · exact wpOpIn_val rfl (by kernel_rfl) (by intro c h; cases h) (fun _ _ => trivial) (by unfold execOp; rfl) N1)
  exact N
end Go.Proofs.Ytfhjcfoecmbhkaa
