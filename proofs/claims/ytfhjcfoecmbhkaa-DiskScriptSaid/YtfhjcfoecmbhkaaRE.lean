/- The document's own disk: a new one. No statement is proved here. -/
import Derived.Test.YtfhjcfoecmbhkaaRC
namespace Go.Proofs.Ytfhjcfoecmbhkaa
open Go.RowKit Go.Maps
set_option linter.unusedVariables false
set_option linter.unusedSimpArgs false

theorem info27 : (Try.prog.info? 27).map (fun i => (i.zero, i.size, i.bytes)) = some (some (.slice none 0 0), 1, 24) := by kernel_rfl
theorem under50 : Try.prog.underlying 50 = some (.slice 27) := by kernel_rfl
/-- So many empty places of a cache. -/
def nils (n : Nat) : List Value := List.replicate n (.slice none 0 0)
theorem made_nils (n : Nat) : madeCells (Value.slice none 0 0).cells n = (nils n).toArray := by
  apply Array.ext
  · simp [madeCells, nils]
  · intro i h1 h2
    simp [madeCells, nils, Value.cells, Nat.mod_one]
section
variable {o : Oper} {a : Act} {w : World} {K : Act → World → Prop} {Q : Exit → Act → World → Prop} {ops : Array Oper}
theorem wp_mk27 (x y : Operand) (ho : o.op = .makeSlice 27 x y) (c : Nat) (hx : a.eval x = .int .i64 (c : Int)) (hy : a.eval y = .int .i64 (c : Int)) (hc : c ≤ 1000000000)
    (h : K (a.put o.dst (.slice (some ⟨w.heap.size, 0, none⟩) c c)) (w.alloc (.cells (bcs (zs c)).toArray 5))) : o.wp Try.prog a w K Q := by
  obtain ⟨i0, hi, hz0, hz1, hz2⟩ := info_parts info5
  have hr := run_make (P := Try.prog) w 27 5 i0 (.int .u8 0) under27 hi hz0 .i64 .i64 c c (by omega) (by omega) (by rw [hz2]; omega) (by omega)
  unfold Oper.wp execOp
  simp only [ho, hx, hy, Sem.run_bind, Sem.run_pure, Result.andThen_ok, hr]
  simp only [hz1, Nat.mul_one, Int.toNat_natCast, made_zeroB]
  exact h
theorem wp_mk50 (x y : Operand) (ho : o.op = .makeSlice 50 x y) (c : Nat) (hx : a.eval x = .int .i64 (c : Int)) (hy : a.eval y = .int .i64 (c : Int)) (hc : c ≤ 1000000000)
    (h : K (a.put o.dst (.slice (some ⟨w.heap.size, 0, none⟩) c c)) (w.alloc (.cells (nils c).toArray 27))) : o.wp Try.prog a w K Q := by
  obtain ⟨i0, hi, hz0, hz1, hz2⟩ := info_parts info27
  have hr := run_make (P := Try.prog) w 50 27 i0 (.slice none 0 0) under50 hi hz0 .i64 .i64 c c (by omega) (by omega) (by rw [hz2]; omega) (by omega)
  unfold Oper.wp execOp
  simp only [ho, hx, hy, Sem.run_bind, Sem.run_pure, Result.andThen_ok, hr]
  simp only [hz1, Nat.mul_one, Int.toNat_natCast, made_nils]
  exact h
theorem wp_box52 {x : Operand} {cs : Array Value} (ho : o.op = .box 52 x) (hx : a.eval x = .agg cs) (h : K (a.put o.dst (.pointer (some ⟨w.heap.size, 0, none⟩))) (w.alloc (.cells cs 52))) : o.wp Try.prog a w K Q := by
  unfold Oper.wp execOp
  simp [ho, hx, Instr.box, newRow, newVar, Value.cells]
  exact h
theorem wpOp_of {i : Nat} {oi : Oper} (hi : ops[i]? = some oi) (hw : Region.wanted oi (yielded ops a.tmps) = true) (h : oi.wp Try.prog a w K Q) : wpOp Try.prog ops Q i K a w := by
  unfold wpOp
  simp only [hi, hw, if_true]
  exact .inl h
end
theorem rf_new {W : World} {lo up r n bb bc : Nat} (hr : W.heap[r]? = some (.cells #[.slice (some ⟨bb, 0, none⟩) (256 * n) (256 * n), .slice (some ⟨bc, 0, none⟩) n n] 52 (0, 0)))
    (hb : W.heap[bb]? = some (.cells (bcs (zs (256 * n))).toArray 5 (0, 0))) (hc : W.heap[bc]? = some (.cells (nils n).toArray 27 (0, 0))) (h1 : lo ≤ r) (h2 : lo ≤ bb) (h3 : lo ≤ bc) (h4 : r ≠ bb) (h5 : r ≠ bc) (n1 : 1 ≤ n) (n2 : n ≤ 16384) (hup : r < up ∧ bb < up ∧ bc < up) :
    Rf W lo up r n (fun _ => zs 256) (fun _ => none) :=
  ⟨bb, bc, nils n, ⟨hr, by rw [flat_zero]; exact hb, hc, by simp [nils], fun i u hu => by
    have := List.mem_of_getElem? hu
    exact (List.mem_replicate.1 this).2, h1, h2, h3, h4, h5, n1, n2, fun i _ => zs_len 256, fun i _ s hs => by cases hs⟩, hup⟩
theorem three (w : World) (A B D : Obj) : (((w.drew.alloc A).alloc B).alloc D).heap[w.heap.size]? = some A ∧ (((w.drew.alloc A).alloc B).alloc D).heap[w.heap.size + 1]? = some B ∧ (((w.drew.alloc A).alloc B).alloc D).heap[w.heap.size + 1 + 1]? = some D ∧ Below w.heap.size w (((w.drew.alloc A).alloc B).alloc D) := by
  have z0 : w.drew.heap.size = w.heap.size := rfl
  have z1 : (w.drew.alloc A).heap.size = w.heap.size + 1 := by rw [World.size_alloc, z0]
  have z2 : ((w.drew.alloc A).alloc B).heap.size = w.heap.size + 1 + 1 := by rw [World.size_alloc, z1]
  have e1 := heap_alloc_new w.drew A
  have e2 := heap_alloc_new (w.drew.alloc A) B
  have e3 := heap_alloc_new ((w.drew.alloc A).alloc B) D
  rw [z0] at e1
  rw [z1] at e2
  rw [z2] at e3
  refine ⟨?_, ?_, e3, ?_⟩
  · exact (Below.heap_alloc _ _ _ (by omega)).trans ((Below.heap_alloc _ _ _ (by omega)).trans e1)
  · exact (Below.heap_alloc _ _ _ (by omega)).trans e2
  · have b0 : Below w.heap.size w w.drew := below_drewN' (Below.refl _ w) 1
    exact ((b0.trans ((below_alloc w.drew A).mono (by omega))).trans ((below_alloc (w.drew.alloc A) B).mono (by omega))).trans ((below_alloc ((w.drew.alloc A).alloc B) D).mono (by omega))
set_option maxRecDepth 100000 in
set_option maxHeartbeats 1000000 in
theorem rnew_any (w : World) (n : Nat) (n1 : 1 ≤ n) (n2 : n ≤ 16384) :
    Calls Try.prog 20 #[.int .i64 (n : Int)] w fun e w' => ∃ r, e = .returned (.tuple #[.pointer (some ⟨r, 0, none⟩), .int .i64 0]) ∧ Rf w' w.heap.size w'.heap.size r n (fun _ => zs 256) (fun _ => none) ∧ Below w.heap.size w w' := by
  have h0 : ¬ ((n : Int) < 1) := by omega
  have h1 : ¬ ((16384 : Int) < (n : Int)) := by omega
  have hw1 : IntKind.i64.wrap ((n : Int) * 256) = ((256 * n : Nat) : Int) := by rw [IntWalk.i64_in _ (by omega)]; omega
  go_enter Try.func20, Try.ntmps20
  go_wp2_with fail
  refine anyStart (fun _ => False) (by kernel_rfl) ?_
  refine anyTakeE (i := 0) (oi := { dst := some 10, op := Op.move (Operand.tmp 0), type := 3, pos := "ref.go:19", after := #[], guard := none }) rfl (by kernel_rfl) (by kernel_rfl) (by kernel_rfl) (fun _ _ _ _ h => h) (by rfl) ?_
  apply Exists.intro
  refine ⟨fun w' hk => ?_, ?_⟩
  · go_simp <;> with_reducible rfl
  simp only [Act.put, List.setIfInBounds_toArray, List.set_cons_zero, List.set_cons_succ]
  refine anyTakeE (i := 1) (oi := { dst := some 11, op := Op.binOp BinOp.mul 3 (Operand.tmp 10) (Operand.const (Value.int IntKind.i64 256)) 3, type := 3, pos := "ref.go:19", after := #[{ on := 0, ground := Ground.data }], guard := none }) rfl (by kernel_rfl) (by kernel_rfl) (by kernel_rfl) (fun _ _ _ _ h => h) (by rfl) ?_
  apply Exists.intro
  refine ⟨fun w' hk => ?_, ?_⟩
  · go_simp <;> with_reducible rfl
  simp only [Act.put, List.setIfInBounds_toArray, List.set_cons_zero, List.set_cons_succ]
  refine anyTakeE (i := 3) (oi := { dst := some 13, op := Op.move (Operand.tmp 0), type := 3, pos := "ref.go:19", after := #[], guard := none }) rfl (by kernel_rfl) (by kernel_rfl) (by kernel_rfl) (fun _ _ _ _ h => h) (by rfl) ?_
  apply Exists.intro
  refine ⟨fun w' hk => ?_, ?_⟩
  · go_simp <;> with_reducible rfl
  simp only [Act.put, List.setIfInBounds_toArray, List.set_cons_zero, List.set_cons_succ]
  refine anyEach [2, 4] (by kernel_rfl) (by simp) ?_
  intro i hi
  have hi2 : i = 2 ∨ i = 4 := by simpa using hi
  rcases hi2 with rfl | rfl
  · refine wpOp_of (oi := { dst := some 12, op := Op.makeSlice 27 (Operand.tmp 11) (Operand.tmp 11), type := 27, pos := "ref.go:19", after := #[{ on := 1, ground := Ground.data }, { on := 1, ground := Ground.data }], guard := none }) rfl (by kernel_rfl) ?_
    refine wp_mk27 _ _ rfl (256 * n) rfl rfl (by omega) ?_
    refine ⟨Keeps.of_below (below_alloc _ _), ?_⟩
    simp only [Act.put, List.setIfInBounds_toArray, List.set_cons_zero, List.set_cons_succ]
    refine anyOp (i := 4) (oi := { dst := some 14, op := Op.makeSlice 50 (Operand.tmp 13) (Operand.tmp 13), type := 50, pos := "ref.go:19", after := #[{ on := 3, ground := Ground.data }, { on := 3, ground := Ground.data }], guard := none }) rfl (by kernel_rfl) (by kernel_rfl) ?_
    refine wp_mk50 _ _ rfl n rfl rfl (by omega) ?_
    refine ⟨Keeps.of_below (below_alloc _ _), ?_⟩
    simp only [Act.put, List.setIfInBounds_toArray, List.set_cons_zero, List.set_cons_succ]
    refine anyTakeE (i := 5) (oi := { dst := some 15, op := Op.build 52 #[(0, Operand.tmp 12), (1, Operand.tmp 14)], type := 52, pos := "ref.go:19", after := #[{ on := 2, ground := Ground.data }, { on := 4, ground := Ground.data }], guard := none }) rfl (by kernel_rfl) (by kernel_rfl) (by kernel_rfl) (fun _ _ _ _ h => h) (by rfl) ?_
    apply Exists.intro
    refine ⟨fun w' hk => ?_, ?_⟩
    · go_simp <;> with_reducible rfl
    simp only [Act.put, List.setIfInBounds_toArray, List.set_cons_zero, List.set_cons_succ]
    refine anyOp (i := 6) (oi := { dst := some 16, op := Op.box 52 (Operand.tmp 15), type := 41, pos := "ref.go:19", after := #[{ on := 5, ground := Ground.data }], guard := none }) rfl (by kernel_rfl) (by kernel_rfl) ?_
    refine wp_box52 rfl rfl ?_
    refine ⟨Keeps.of_below (below_alloc _ _), ?_⟩
    simp only [Act.put, List.setIfInBounds_toArray, List.set_cons_zero, List.set_cons_succ]
    refine anyTakeE (i := 7) (oi := { dst := some 2, op := Op.assign (Operand.tmp 16), type := 41, pos := "ref.go:19", after := #[{ on := 6, ground := Ground.data }, { on := 0, ground := Ground.phase }, { on := 1, ground := Ground.phase }, { on := 2, ground := Ground.phase }, { on := 3, ground := Ground.phase }, { on := 4, ground := Ground.phase }, { on := 5, ground := Ground.phase }, { on := 6, ground := Ground.phase }], guard := none }) rfl (by kernel_rfl) (by kernel_rfl) (by kernel_rfl) (fun _ _ _ _ h => h) (by rfl) ?_
    apply Exists.intro
    refine ⟨fun w' hk => ?_, ?_⟩
    · go_simp <;> with_reducible rfl
    simp only [Act.put, List.setIfInBounds_toArray, List.set_cons_zero, List.set_cons_succ]
    refine anyTakeE (i := 8) (oi := { dst := some 3, op := Op.assign (Operand.const (Value.int IntKind.i64 0)), type := 23, pos := "ref.go:19", after := #[{ on := 7, ground := Ground.chain }, { on := 0, ground := Ground.phase }, { on := 1, ground := Ground.phase }, { on := 2, ground := Ground.phase }, { on := 3, ground := Ground.phase }, { on := 4, ground := Ground.phase }, { on := 5, ground := Ground.phase }, { on := 6, ground := Ground.phase }, { on := 7, ground := Ground.phase }], guard := none }) rfl (by kernel_rfl) (by kernel_rfl) (by kernel_rfl) (fun _ _ _ _ h => h) (by rfl) ?_
    apply Exists.intro
    refine ⟨fun w' hk => ?_, ?_⟩
    · go_simp <;> with_reducible rfl
    simp only [Act.put, List.setIfInBounds_toArray, List.set_cons_zero, List.set_cons_succ]
    refine anyDone (by kernel_rfl) ?_ _
    go_wp2
    go_ret2
    obtain ⟨q1, q2, q3, q4⟩ := three w _ _ _
    refine ⟨w.heap.size + 1 + 1, rfl, rf_new q3 q1 q2 (by omega) (by omega) (by omega) (by omega) (by omega) n1 n2 ⟨?_, ?_, ?_⟩, q4⟩ <;> (simp only [World.size_alloc]; have z0 : w.drew.heap.size = w.heap.size := rfl; omega)
  · refine wpOp_of (oi := { dst := some 14, op := Op.makeSlice 50 (Operand.tmp 13) (Operand.tmp 13), type := 50, pos := "ref.go:19", after := #[{ on := 3, ground := Ground.data }, { on := 3, ground := Ground.data }], guard := none }) rfl (by kernel_rfl) ?_
    refine wp_mk50 _ _ rfl n rfl rfl (by omega) ?_
    refine ⟨Keeps.of_below (below_alloc _ _), ?_⟩
    simp only [Act.put, List.setIfInBounds_toArray, List.set_cons_zero, List.set_cons_succ]
    refine anyOp (i := 2) (oi := { dst := some 12, op := Op.makeSlice 27 (Operand.tmp 11) (Operand.tmp 11), type := 27, pos := "ref.go:19", after := #[{ on := 1, ground := Ground.data }, { on := 1, ground := Ground.data }], guard := none }) rfl (by kernel_rfl) (by kernel_rfl) ?_
    refine wp_mk27 _ _ rfl (256 * n) rfl rfl (by omega) ?_
    refine ⟨Keeps.of_below (below_alloc _ _), ?_⟩
    simp only [Act.put, List.setIfInBounds_toArray, List.set_cons_zero, List.set_cons_succ]
    refine anyTakeE (i := 5) (oi := { dst := some 15, op := Op.build 52 #[(0, Operand.tmp 12), (1, Operand.tmp 14)], type := 52, pos := "ref.go:19", after := #[{ on := 2, ground := Ground.data }, { on := 4, ground := Ground.data }], guard := none }) rfl (by kernel_rfl) (by kernel_rfl) (by kernel_rfl) (fun _ _ _ _ h => h) (by rfl) ?_
    apply Exists.intro
    refine ⟨fun w' hk => ?_, ?_⟩
    · go_simp <;> with_reducible rfl
    simp only [Act.put, List.setIfInBounds_toArray, List.set_cons_zero, List.set_cons_succ]
    refine anyOp (i := 6) (oi := { dst := some 16, op := Op.box 52 (Operand.tmp 15), type := 41, pos := "ref.go:19", after := #[{ on := 5, ground := Ground.data }], guard := none }) rfl (by kernel_rfl) (by kernel_rfl) ?_
    refine wp_box52 rfl rfl ?_
    refine ⟨Keeps.of_below (below_alloc _ _), ?_⟩
    simp only [Act.put, List.setIfInBounds_toArray, List.set_cons_zero, List.set_cons_succ]
    refine anyTakeE (i := 7) (oi := { dst := some 2, op := Op.assign (Operand.tmp 16), type := 41, pos := "ref.go:19", after := #[{ on := 6, ground := Ground.data }, { on := 0, ground := Ground.phase }, { on := 1, ground := Ground.phase }, { on := 2, ground := Ground.phase }, { on := 3, ground := Ground.phase }, { on := 4, ground := Ground.phase }, { on := 5, ground := Ground.phase }, { on := 6, ground := Ground.phase }], guard := none }) rfl (by kernel_rfl) (by kernel_rfl) (by kernel_rfl) (fun _ _ _ _ h => h) (by rfl) ?_
    apply Exists.intro
    refine ⟨fun w' hk => ?_, ?_⟩
    · go_simp <;> with_reducible rfl
    simp only [Act.put, List.setIfInBounds_toArray, List.set_cons_zero, List.set_cons_succ]
    refine anyTakeE (i := 8) (oi := { dst := some 3, op := Op.assign (Operand.const (Value.int IntKind.i64 0)), type := 23, pos := "ref.go:19", after := #[{ on := 7, ground := Ground.chain }, { on := 0, ground := Ground.phase }, { on := 1, ground := Ground.phase }, { on := 2, ground := Ground.phase }, { on := 3, ground := Ground.phase }, { on := 4, ground := Ground.phase }, { on := 5, ground := Ground.phase }, { on := 6, ground := Ground.phase }, { on := 7, ground := Ground.phase }], guard := none }) rfl (by kernel_rfl) (by kernel_rfl) (by kernel_rfl) (fun _ _ _ _ h => h) (by rfl) ?_
    apply Exists.intro
    refine ⟨fun w' hk => ?_, ?_⟩
    · go_simp <;> with_reducible rfl
    simp only [Act.put, List.setIfInBounds_toArray, List.set_cons_zero, List.set_cons_succ]
    refine anyDone (by kernel_rfl) ?_ _
    go_wp2
    go_ret2
    obtain ⟨q1, q2, q3, q4⟩ := three w _ _ _
    refine ⟨w.heap.size + 1 + 1, rfl, rf_new q3 q2 q1 (by omega) (by omega) (by omega) (by omega) (by omega) n1 n2 ⟨?_, ?_, ?_⟩, q4⟩ <;> (simp only [World.size_alloc]; have z0 : w.drew.heap.size = w.heap.size := rfl; omega)
end Go.Proofs.Ytfhjcfoecmbhkaa
