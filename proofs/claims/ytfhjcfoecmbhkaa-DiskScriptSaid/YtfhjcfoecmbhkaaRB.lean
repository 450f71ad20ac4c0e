/- The document's own disk: a write. No statement is proved here. -/
import Derived.Test.YtfhjcfoecmbhkaaRA
namespace Go.Proofs.Ytfhjcfoecmbhkaa
open Go.RowKit Go.Maps
set_option linter.unusedVariables false
set_option linter.unusedSimpArgs false

section
variable {o : Oper} {a : Act} {w : World} {K : Act → World → Prop} {Q : Exit → Act → World → Prop} {ops : Array Oper} {rest : List Oper}
/-- A slice value is stored into one cell. -/
theorem wp_store_sl (ty : TypeId) (p x : Operand) (ho : o.op = .store ty p x) (g j : Nat) (hp : a.eval p = .pointer (some ⟨g, j, none⟩)) (s : Option Addr) (n c : Nat) (hx : a.eval x = .slice s n c)
    (t : TypeId) (cur : Array Value) (hg : w.heap[g]? = some (.cells cur t (0, 0))) (hi : (Try.prog.info? ty).map (·.size) = some 1) (hj : j < cur.size)
    (h : ∀ w', w'.heap[g]? = some (.cells (cur.setIfInBounds j (.slice s n c)) t (0, 0)) → w.grownBy w' (some g) → w'.heap.size = w.heap.size → K (a.put o.dst undef) w') :
    o.wp Try.prog a w K Q := by
  cases hq : Try.prog.info? ty with
  | none => simp [hq] at hi
  | some i =>
    have hs : i.size = 1 := by simpa [hq] using hi
    have hst := run_storeCells_at Try.prog g j t [.slice s n c] 0 cur w hg (by simp; omega) (by simp [Value.oneCell'])
    simp only [Nat.add_zero] at hst
    have he : (cur.toList.take j ++ [Value.slice s n c] ++ cur.toList.drop (j + [Value.slice s n c].length)).toArray = cur.setIfInBounds j (.slice s n c) := by
      apply Array.toList_inj.1
      rw [Array.toList_setIfInBounds, List.set_eq_take_append_cons_drop, if_pos (by simpa using hj)]
      simp
    rw [he] at hst
    have hrun : (Instr.storeAt ty (.pointer (some ⟨g, j, none⟩)) (.slice s n c)).run Try.prog w = .ok () (w.setRow g (cur.setIfInBounds j (.slice s n c))) := by
      simp [Instr.storeAt, Instr.sureAddr, storeVar, sizeOf, typeInfo, hq, hs, Value.cells, hst]
    unfold Oper.wp execOp
    simp only [ho, hp, hx, Sem.run_bind, Sem.run_pure, Result.andThen_ok, hrun]
    exact h _ (setRow_heap w g cur _ t _ hg) (setRow_grown w g _) (by simp)
theorem wpList_store_sl (hgd : Region.wanted o (yielded ops a.tmps) = true) (ty : TypeId) (p x : Operand) (ho : o.op = .store ty p x) (g j : Nat) (hp : a.eval p = .pointer (some ⟨g, j, none⟩)) (s : Option Addr) (n c : Nat) (hx : a.eval x = .slice s n c)
    (t : TypeId) (cur : Array Value) (hg : w.heap[g]? = some (.cells cur t (0, 0))) (hi : (Try.prog.info? ty).map (·.size) = some 1) (hj : j < cur.size)
    (h : ∀ w', w'.heap[g]? = some (.cells (cur.setIfInBounds j (.slice s n c)) t (0, 0)) → w.grownBy w' (some g) → w'.heap.size = w.heap.size → wpList Try.prog ops Q rest (a.put o.dst undef) w') :
    wpList Try.prog ops Q (o :: rest) a w :=
  wpList_want hgd fun K hK => wp_store_sl ty p x ho g j hp s n c hx t cur hg hi hj fun w' h1 h2 h3 => hK _ _ (h w' h1 h2 h3)
/-- An empty slice of bytes is built. -/
theorem wp_empty27 (ho : o.op = .buildSlice 27 0 #[]) (h : K (a.put o.dst (.slice (some ⟨w.heap.size, 0, none⟩) 0 0)) (w.alloc (.cells #[] 5))) : o.wp Try.prog a w K Q := by
  have hs := Try.sizeOf5 w
  unfold Oper.wp execOp
  simp [ho, Instr.buildSlice, run_underlying under27, hs, newRow, Instr.fill, Result.andThen]
  rw [show Array.map (fun _ : Nat => (default : Value)) (Array.range 0) = #[] from Array.eq_empty_of_size_eq_zero (by simp)]
  exact h
end
theorem size27 : (Try.prog.info? 27).map (·.size) = some 1 := by kernel_rfl
section
variable {w w' : World} {lo up r n bb bc : Nat} {S : Nat → List UInt8} {C : Nat → Option (List UInt8)} {cs : List Value}
/-- A sector's bytes get into the cache. -/
theorem RfB.put (h : RfB w lo r n S C bb bc cs) (hup : r < up ∧ bb < up ∧ bc < up) (i : Nat) (hi : i < n) (s : List UInt8) (hs : s.length = 256) (w2 w3 : World) (g cap : Nat) (cur : Array Value) (hB : Below w.heap.size w w2) (hgb : w.heap.size ≤ g) (hgr : w2.heap[g]? = some (.cells cur 5 (0, 0))) (hgt : cur.toList.take ((0 + 256) * 1) = [] ++ bcs s)
    (hh : w3.heap[bc]? = some (.cells (cs.toArray.setIfInBounds i (.slice (some ⟨g, 0, none⟩) (0 + 256) cap)) 27 (0, 0))) (hg : w2.grownBy w3 (some bc)) (hz : w3.heap.size = w2.heap.size) :
    Rf w3 lo up r n S (upd C i (some s)) ∧ Keeps (fun b => lo ≤ b ∧ b < up) w w3 := by
  obtain ⟨l1, l2, l3⟩ := h.lts
  have hk : Keeps (fun b => b = bc) w w3 := (Keeps.of_below hB).trans (Keeps.of_grown hg (fun q hq => by injection hq with hq; exact hq.symm))
  have hgl : g < w2.heap.size := (Array.getElem?_eq_some_iff.1 hgr).1
  have hg3 : w3.heap[g]? = some (.cells cur 5 (0, 0)) := (hg.block g hgl (by simp; omega)).trans hgr
  have hr1 := h.r1
  have hb1 := h.b1
  have hc1 := h.c1
  refine ⟨⟨bb, bc, cs.set i (.slice (some ⟨g, 0, none⟩) 256 cap), ⟨(hk.block r l1 h.rc).trans h.hr, (hk.block bb l2 ?_).trans h.hb, by simpa using hh, by rw [List.length_set, h.cl], ?_, hr1, hb1, hc1, h.rb, h.rc, h.n1, h.n2, h.sok, h.cok.upd hs⟩, hup⟩, ⟨hk.1, hk.2, hk.3, hk.4, ?_⟩⟩
  · intro e
    have := h.hb
    rw [e, h.hc] at this
    cases this
  · intro j u hu
    rw [List.getElem?_set] at hu
    by_cases hj : i = j
    · subst hj
      rw [if_pos rfl, if_pos (by rw [h.cl]; exact hi)] at hu
      cases hu
      rw [upd_same]
      refine ⟨g, cap, rfl, by omega, by omega, by omega, by omega, ⟨by rw [bcs_len, hs], fun _ => ⟨g, 0, rfl, rfl, fun k hk => ?_⟩⟩⟩
      rw [cell_of_row w3 g _ _ _ _ hg3]
      have e1 : (cur.toList.take ((0 + 256) * 1))[k]? = (bcs s)[k]? := by rw [hgt]; rfl
      rw [List.getElem?_take, if_pos (by omega)] at e1
      simpa using e1
    · rw [if_neg hj] at hu
      rw [upd_ne _ _ (fun e => hj e.symm)]
      exact (h.sl j u hu).keeps hk (fun b _ _ _ hb => hb)
  · intro k hk' hG
    exact hk.block k hk' (fun e => hG (by omega))
end
section
variable {w w' : World} {lo up r n : Nat} {S : Nat → List UInt8} {C : Nat → Option (List UInt8)}
set_option maxRecDepth 100000 in
set_option maxHeartbeats 1000000 in
theorem rwrite_in (h : Rf w lo up r n S C) (i : Nat) (hi : i < n) (SS : Nat → Prop) (A : Option Addr) (c : Nat) (s : List UInt8) (hs : Src w SS A 256 (bcs s)) (hSS : ∀ b, SS b → b < w.heap.size) :
    Calls Try.prog 26 #[.pointer (some ⟨r, 0, none⟩), .int .i64 (i : Int), .slice A 256 c] w fun e w' => e = .returned (.int .i64 0) ∧ Rf w' lo up r n S (upd C i (some s)) ∧ Keeps (fun b => lo ≤ b ∧ b < up) w w' := by
  have hS := rsize_any h
  obtain ⟨bb, bc, cs, h, hup⟩ := h
  obtain ⟨i0, hi0, hq0, hq1, hq2⟩ := info_parts info5
  have d1 := h.d1
  have HLT : Hid (r < w.heap.size ∧ bb < w.heap.size ∧ bc < w.heap.size ∧ r ≠ bc) := Lib.hid ⟨h.lts.1, h.lts.2.1, h.lts.2.2, h.rc⟩
  have HS := Lib.hid hs
  have HSS := Lib.hid hSS
  have HC0 := Lib.hid h.hc
  have HCL := Lib.hid h.cl
  have hs256 : s.length = 256 := by have := hs.len; rwa [bcs_len] at this
  have RFF := Lib.hid (h.put hup i hi s hs256)
  have h0 : ¬ ((i : Int) < 0) := by omega
  have h1 : (i : Int) < (n : Int) := by omega
  clear h hs hSS hs256 hup
  go_enter Try.func26, Try.ntmps26
  go_wp2_with (go_at_call 42; refine hS.mono ?_; rintro e w' ⟨rfl, rfl⟩)
  refine anyStart (fun b => b = bc ∨ w'.heap.size ≤ b) (by kernel_rfl) ?_
  refine anyTakeE (i := 0) (oi := { dst := some 20, op := Op.move (Operand.tmp 0), type := 41, pos := "ref.go:53", after := #[], guard := none }) rfl (by kernel_rfl) (by kernel_rfl) (by kernel_rfl) (fun _ _ _ _ h => h) (by rfl) ?_
  apply Exists.intro
  refine ⟨fun w' hk => ?_, ?_⟩
  · go_simp <;> with_reducible rfl
  simp only [Act.put, List.setIfInBounds_toArray, List.set_cons_zero, List.set_cons_succ]
  refine anyTakeE (i := 1) (oi := { dst := some 21, op := Op.nilCheck (Operand.tmp 20), type := 0, pos := "ref.go:53", after := #[{ on := 0, ground := Ground.data }], guard := none }) rfl (by kernel_rfl) (by kernel_rfl) (by kernel_rfl) (fun _ _ _ _ h => h) (by rfl) ?_
  apply Exists.intro
  refine ⟨fun w' hk => ?_, ?_⟩
  · go_simp <;> with_reducible rfl
  simp only [Act.put, List.setIfInBounds_toArray, List.set_cons_zero, List.set_cons_succ]
  refine anyTakeE (i := 2) (oi := { dst := some 22, op := Op.fieldAddr 52 (Operand.tmp 21) 1, type := 0, pos := "ref.go:53", after := #[{ on := 1, ground := Ground.data }], guard := none }) rfl (by kernel_rfl) (by kernel_rfl) (by kernel_rfl) (fun _ _ _ _ h => h) (by rfl) ?_
  apply Exists.intro
  refine ⟨fun w' hk => ?_, ?_⟩
  · go_simp <;> with_reducible rfl
  simp only [Act.put, List.setIfInBounds_toArray, List.set_cons_zero, List.set_cons_succ]
  refine anyTakeE (i := 3) (oi := { dst := some 23, op := Op.load 50 (Operand.tmp 22), type := 50, pos := "ref.go:53", after := #[{ on := 2, ground := Ground.data }], guard := none }) rfl (by kernel_rfl) (by kernel_rfl) (by kernel_rfl) (fun _ _ _ _ h => h) (by rfl) ?_
  apply Exists.intro
  refine ⟨fun w' hk => ?_, ?_⟩
  · have c9 := (hk.cell (b := r) (o := 1) HLT.out.1 (by have := HLT.out; omega)).trans d1; go_simp <;> with_reducible rfl
  simp only [Act.put, List.setIfInBounds_toArray, List.set_cons_zero, List.set_cons_succ]
  refine anyTakeE (i := 4) (oi := { dst := some 24, op := Op.move (Operand.tmp 1), type := 3, pos := "ref.go:53", after := #[], guard := none }) rfl (by kernel_rfl) (by kernel_rfl) (by kernel_rfl) (fun _ _ _ _ h => h) (by rfl) ?_
  apply Exists.intro
  refine ⟨fun w' hk => ?_, ?_⟩
  · go_simp <;> with_reducible rfl
  simp only [Act.put, List.setIfInBounds_toArray, List.set_cons_zero, List.set_cons_succ]
  refine anyTakeE (i := 6) (oi := { dst := some 26, op := Op.move (Operand.tmp 2), type := 27, pos := "ref.go:53", after := #[], guard := none }) rfl (by kernel_rfl) (by kernel_rfl) (by kernel_rfl) (fun _ _ _ _ h => h) (by rfl) ?_
  apply Exists.intro
  refine ⟨fun w' hk => ?_, ?_⟩
  · go_simp <;> with_reducible rfl
  simp only [Act.put, List.setIfInBounds_toArray, List.set_cons_zero, List.set_cons_succ]
  refine anyOp (i := 5) (oi := { dst := some 25, op := Op.buildSlice 27 0 #[], type := 27, pos := "ref.go:53", after := #[], guard := none }) rfl (by kernel_rfl) (by kernel_rfl) ?_
  refine wp_empty27 rfl ?_
  refine ⟨Keeps.of_below (below_alloc _ _), ?_⟩
  simp only [Act.put, List.setIfInBounds_toArray, List.set_cons_zero, List.set_cons_succ]
  have hss := (HS.out.drewN 1).alloc (fun b hb => HSS.out b hb) (.cells #[] 5)
  have HSR := Lib.hid hss
  refine anyOp (i := 7) (oi := { dst := some 27, op := Op.call { callee := Callee.builtin Builtin.append, args := #[Operand.tmp 25, Operand.tmp 26], argTypes := #[27, 27] }, type := 27, pos := "ref.go:53", after := #[{ on := 5, ground := Ground.data }, { on := 6, ground := Ground.data }], guard := none }) rfl (by kernel_rfl) (by kernel_rfl) ?_
  refine wp_app _ _ 27 rfl w'.heap.size 5 i0 (.int .u8 0) 1 under27 hi0 hq0 hq1 hq2 rfl _ 0 [] rfl (World.ownsRow_made w'.drew #[] 0 (Nat.le_refl _) (Nat.zero_le _) (by simp)) SS A 256 c (bcs s) rfl HSR.out (bcs_one _) (by unfold maxLen; omega) (by omega) (by simp) ?_
  intro v2 w2 hown hg
  have hzd : (w'.drewN 1).heap.size = w'.heap.size := rfl
  have hB2 : Below w'.heap.size w' w2 := ((below_drewN' (Below.refl _ w') 1).alloc (Nat.le_refl _) _).grown hg (by simp) (by intro k hk; have hk2 : some w'.heap.size = some k := hk; injection hk2 with hk2; omega)
  refine ⟨Keeps.of_grown hg (by intro k hk; have hk2 : some w'.heap.size = some k := hk; injection hk2 with hk2; exact .inr (by omega)), ?_⟩
  simp only [Act.put, List.setIfInBounds_toArray, List.set_cons_zero, List.set_cons_succ]
  refine anyTakeE (i := 8) (oi := { dst := some 28, op := Op.indexAddr 50 (Operand.tmp 23) (Operand.tmp 24), type := 0, pos := "ref.go:53", after := #[{ on := 3, ground := Ground.data }, { on := 4, ground := Ground.data }, { on := 0, ground := Ground.phase }, { on := 1, ground := Ground.phase }, { on := 2, ground := Ground.phase }, { on := 3, ground := Ground.phase }, { on := 4, ground := Ground.phase }, { on := 5, ground := Ground.phase }, { on := 6, ground := Ground.phase }, { on := 7, ground := Ground.phase }], guard := none }) rfl (by kernel_rfl) (by kernel_rfl) (by kernel_rfl) (fun _ _ _ _ h => h) (by rfl) ?_
  apply Exists.intro
  refine ⟨fun w' hk => ?_, ?_⟩
  · go_simp <;> with_reducible rfl
  simp only [Act.put, List.setIfInBounds_toArray, List.set_cons_zero, List.set_cons_succ]
  refine anyOp (i := 9) (oi := { dst := none, op := Op.store 27 (Operand.tmp 28) (Operand.tmp 27), type := 0, pos := "ref.go:53", after := #[{ on := 8, ground := Ground.data }, { on := 7, ground := Ground.data }, { on := 7, ground := Ground.chain }, { on := 0, ground := Ground.phase }, { on := 1, ground := Ground.phase }, { on := 2, ground := Ground.phase }, { on := 3, ground := Ground.phase }, { on := 4, ground := Ground.phase }, { on := 5, ground := Ground.phase }, { on := 6, ground := Ground.phase }, { on := 7, ground := Ground.phase }], guard := none }) rfl (by kernel_rfl) (by kernel_rfl) ?_
  rcases hown.2 with ⟨_, h0⟩ | ⟨g, cap, cur, rfl, hgb, hgr, hgc, hgm, hgs, hgt⟩
  · exact absurd h0 (by omega)
  have hcb : w2.heap[bc]? = some (.cells cs.toArray 27 (0, 0)) := (hB2.block bc HLT.out.2.2.1).trans HC0.out
  refine wp_store_sl 27 _ _ rfl bc i rfl _ _ _ rfl 27 cs.toArray hcb size27 (by rw [List.size_toArray, HCL.out]; exact hi) ?_
  intro w3 hh3 hg3 hz3
  refine ⟨Keeps.of_grown hg3 (fun q hq => by injection hq with hq; exact .inl hq.symm), ?_⟩
  simp only [Act.put, List.setIfInBounds_toArray, List.set_cons_zero, List.set_cons_succ]
  have HF := Lib.hid (RFF.out w2 w3 g cap cur hB2 hgb hgr hgt hh3 hg3 hz3)
  clear hown hg hB2 hgr hgt hcb hh3 hg3 hz3
  refine anyDone (by kernel_rfl) ?_ _
  go_wp2
  go_ret
  exact ⟨rfl, HF.out.1, HF.out.2⟩
end
end Go.Proofs.Ytfhjcfoecmbhkaa
