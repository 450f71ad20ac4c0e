/- A disk's clone: its sectors, its cache. No statement is proved here. -/
import Derived.Test.YtfhjcfoecmbhkaaDD
namespace Go.Proofs.Ytfhjcfoecmbhkaa
open Go.RowKit Go.Maps
set_option linter.unusedVariables false
set_option linter.unusedSimpArgs false

set_option maxRecDepth 100000 in
set_option maxHeartbeats 600000 in
/-- slices.Clone of sectors. -/
theorem cloneS_any (w : World) (b n c : Nat) (l : List UInt8) (hl : l.length = n * 256) (hc : ∀ j u, (bcs l)[j]? = some u → w.cell? ⟨b, j, none⟩ = some u) (hn : n ≤ 1000000000) :
    Calls Try.prog 38 #[.slice (some ⟨b, 0, none⟩) n c] w fun e w' => ∃ v, e = .returned v ∧ w'.ownsRow w.heap.size 63 256 v n (bcs l) ∧ v ≠ .slice none 0 0 ∧ Below w.heap.size w w' := by
  obtain ⟨i0, hi, hz0, hz1, hz2⟩ := info_parts info63
  have hq := eq_nil59
  have HC := Lib.hid hc
  have HL := Lib.hid hl
  clear hc hl
  go_enter Try.func38, Try.ntmps38
  go_wp2_with (at_builtin; go_must (refine wpList_append_own _ rfl _ _ 59 rfl w.heap.size 63 i0 (.agg (zarr 256)) 256 256 under59 hi hz0 hz1 hz2 (by simp [Value.cells, zarr]) (by omega) _ _ _ rfl (World.ownsRow_made w #[] 0 (Nat.le_refl _) (Nat.zero_le _) (by simp)) ⟨b, 0, none⟩ n c (bcs l) rfl (by rw [bcs_len, HL.out]) (fun j u hj => by rw [Addr.add_lit, Nat.zero_add]; exact Lib.cell?_alloc_some _ (HC.out j u hj)) (bcs_one l) (by unfold maxLen; omega) (by omega) (by simp) ?_; intro v2 w2 hown hg hnil))
  go_ret
  exact ⟨v2, rfl, by simpa using hown, fun e => (by have h9 := (hnil.1 e).1; simp [Act.eval] at h9), ((Below.refl _ w).alloc (Nat.le_refl _) _).grown hg (by simp) (by intro k hk; have hk2 : some w.heap.size = some k := hk; injection hk2 with hk2; omega)⟩

theorem eq_nilM (w : World) (p : Option Nat) : (binOp .eql 65 (.map p) (.map none)).run Try.prog w = .ok (.bool p.isNone) w := run_eql_map_nil_sl w 65 3 63 p under65
set_option maxRecDepth 100000 in
set_option maxHeartbeats 600000 in
/-- maps.Clone of a cache. -/
theorem cloneM_any (w : World) (b : Nat) (es : Array MapEntry) (clock : Nat) (hb : w.heap[b]? = some (.map es clock)) :
    Calls Try.prog 39 #[.map (some b)] w fun e w' => e = .returned (.map (some w.heap.size)) ∧ w' = w.alloc (.map es clock) := by
  have hq := fun w => eq_nilM w (some b)
  go_enter Try.func39, Try.ntmps39
  go_wp2
  rw [run_callFunc_extern Try.func50 (by kernel_rfl) (by kernel_rfl) (by kernel_rfl) (e := Extern.MapsClone.clone) (by kernel_rfl), run_maps_clone_sl w 65 hb]
  simp only [Result.andThen]
  rw [Oper.upon_value]
  go_wp2
  rw [run_typeAssert_map_sl _ 65 20 _ _ _ under65]
  simp only [Result.andThen]
  rw [Oper.upon_value]
  go_wp2
  go_ret
  exact ⟨rfl, rfl⟩

theorem wp_box67 {o : Oper} {a : Act} {w : World} {K : Act → World → Prop} {Q : Exit → Act → World → Prop} {x : Operand} {cs : Array Value} (ho : o.op = .box 67 x) (hx : a.eval x = .agg cs) (h : K (a.put o.dst (.pointer (some ⟨w.heap.size, 0, none⟩))) (w.alloc (.cells cs 67))) : o.wp Try.prog a w K Q := by
  unfold Oper.wp execOp
  simp [ho, hx, Instr.box, newRow, newVar, Value.cells]
  exact h
section
variable {w : World} {lo hi p n : Nat} {S : Nat → List UInt8} {C : Nat → Option (List UInt8)}
set_option maxRecDepth 100000 in
set_option maxHeartbeats 1000000 in
/-- The clone lies from the world's end on. -/
theorem clone_dk (h : Dk w lo hi p n S C) : Calls Try.prog 16 #[.pointer (some ⟨p, 0, none⟩)] w fun e w' => ∃ q, e = .returned (.pointer (some ⟨q, 0, none⟩)) ∧ Dk w' w.heap.size w'.heap.size q n S C ∧ Below w.heap.size w w' := by
  have hV := valid_any h
  obtain ⟨bs, bm, cap, cur, D, h⟩ := h
  have c0 := h.c0
  have c1 := h.c1
  have HH := Lib.hid h
  obtain ⟨es, clock, hb, Ft, hsz, hD⟩ := h.hm
  have hlen : (flat n S).length = n * 256 := by rw [flat_len h.sok]; omega
  have HCS := Lib.hid (cloneS_any)
  have HCM := Lib.hid (cloneM_any)
  have HCC : Hid (∀ j u, (bcs (flat n S))[j]? = some u → w.cell? ⟨bs, j, none⟩ = some u) := Lib.hid (fun j u hj => by
    rw [← h.ht, List.getElem?_take] at hj
    split at hj
    · rw [cell_of_row w bs _ _ _ _ h.hs]
      simpa using hj
    · cases hj)
  clear h
  go_enter Try.func16, Try.ntmps16
  go_wp2_with (go_at_call 35; refine hV.mono ?_; rintro e w' ⟨rfl, rfl⟩)
  refine anyStart (fun _ => False) (by kernel_rfl) ?_
  refine anyTakeE (i := 0) (oi := { dst := some 6, op := Op.move (Operand.tmp 0), type := 22, pos := "disk.go:105", after := #[], guard := none }) rfl (by kernel_rfl) (by kernel_rfl) (by kernel_rfl) (fun _ _ _ _ h => h) (by rfl) ?_
  apply Exists.intro
  refine ⟨fun w' hk => ?_, ?_⟩
  · go_simp <;> with_reducible rfl
  simp only [Act.put, List.setIfInBounds_toArray, List.set_cons_zero, List.set_cons_succ]
  refine anyTakeE (i := 1) (oi := { dst := some 7, op := Op.nilCheck (Operand.tmp 6), type := 0, pos := "disk.go:105", after := #[{ on := 0, ground := Ground.data }], guard := none }) rfl (by kernel_rfl) (by kernel_rfl) (by kernel_rfl) (fun _ _ _ _ h => h) (by rfl) ?_
  apply Exists.intro
  refine ⟨fun w' hk => ?_, ?_⟩
  · go_simp <;> with_reducible rfl
  simp only [Act.put, List.setIfInBounds_toArray, List.set_cons_zero, List.set_cons_succ]
  refine anyTakeE (i := 2) (oi := { dst := some 8, op := Op.fieldAddr 67 (Operand.tmp 7) 0, type := 0, pos := "disk.go:105", after := #[{ on := 1, ground := Ground.data }], guard := none }) rfl (by kernel_rfl) (by kernel_rfl) (by kernel_rfl) (fun _ _ _ _ h => h) (by rfl) ?_
  apply Exists.intro
  refine ⟨fun w' hk => ?_, ?_⟩
  · go_simp <;> with_reducible rfl
  simp only [Act.put, List.setIfInBounds_toArray, List.set_cons_zero, List.set_cons_succ]
  refine anyTakeE (i := 3) (oi := { dst := some 9, op := Op.load 59 (Operand.tmp 8), type := 59, pos := "disk.go:105", after := #[{ on := 2, ground := Ground.data }], guard := none }) rfl (by kernel_rfl) (by kernel_rfl) (by kernel_rfl) (fun _ _ _ _ h => h) (by rfl) ?_
  apply Exists.intro
  refine ⟨fun w' hk => ?_, ?_⟩
  · have c9 := (hk.cell (b := p) (o := 0) (Nat.lt_of_lt_of_le HH.out.p1.2 HH.out.hle) id).trans c0; go_simp <;> with_reducible rfl
  simp only [Act.put, List.setIfInBounds_toArray, List.set_cons_zero, List.set_cons_succ]
  refine anyTakeE (i := 5) (oi := { dst := some 11, op := Op.move (Operand.tmp 0), type := 22, pos := "disk.go:105", after := #[], guard := none }) rfl (by kernel_rfl) (by kernel_rfl) (by kernel_rfl) (fun _ _ _ _ h => h) (by rfl) ?_
  apply Exists.intro
  refine ⟨fun w' hk => ?_, ?_⟩
  · go_simp <;> with_reducible rfl
  simp only [Act.put, List.setIfInBounds_toArray, List.set_cons_zero, List.set_cons_succ]
  refine anyTakeE (i := 6) (oi := { dst := some 12, op := Op.nilCheck (Operand.tmp 11), type := 0, pos := "disk.go:105", after := #[{ on := 5, ground := Ground.data }], guard := none }) rfl (by kernel_rfl) (by kernel_rfl) (by kernel_rfl) (fun _ _ _ _ h => h) (by rfl) ?_
  apply Exists.intro
  refine ⟨fun w' hk => ?_, ?_⟩
  · go_simp <;> with_reducible rfl
  simp only [Act.put, List.setIfInBounds_toArray, List.set_cons_zero, List.set_cons_succ]
  refine anyTakeE (i := 7) (oi := { dst := some 13, op := Op.fieldAddr 67 (Operand.tmp 12) 1, type := 0, pos := "disk.go:105", after := #[{ on := 6, ground := Ground.data }], guard := none }) rfl (by kernel_rfl) (by kernel_rfl) (by kernel_rfl) (fun _ _ _ _ h => h) (by rfl) ?_
  apply Exists.intro
  refine ⟨fun w' hk => ?_, ?_⟩
  · go_simp <;> with_reducible rfl
  simp only [Act.put, List.setIfInBounds_toArray, List.set_cons_zero, List.set_cons_succ]
  refine anyTakeE (i := 8) (oi := { dst := some 14, op := Op.load 65 (Operand.tmp 13), type := 65, pos := "disk.go:105", after := #[{ on := 7, ground := Ground.data }], guard := none }) rfl (by kernel_rfl) (by kernel_rfl) (by kernel_rfl) (fun _ _ _ _ h => h) (by rfl) ?_
  apply Exists.intro
  refine ⟨fun w' hk => ?_, ?_⟩
  · have c9 := (hk.cell (b := p) (o := 1) (Nat.lt_of_lt_of_le HH.out.p1.2 HH.out.hle) id).trans c1; go_simp <;> with_reducible rfl
  simp only [Act.put, List.setIfInBounds_toArray, List.set_cons_zero, List.set_cons_succ]
  refine anyCall (i := 4) (oi := { dst := some 10, op := Op.call { callee := Callee.value (Operand.func 38), args := #[Operand.tmp 9], argTypes := #[59] }, type := 59, pos := "disk.go:105", after := #[{ on := 3, ground := Ground.data }], guard := none }) rfl (by kernel_rfl) (by rfl) ?_ (((HCS.out w'.drew bs n cap (flat n S) hlen HCC.out (by have := HH.out.n2; omega))).mono ?_)
  · go_simp
  rintro e4 w4 ⟨v4, rfl, ho4, hv4, hb4⟩
  have hb4w : Below w'.heap.size w' w4 := ⟨hb4.os, hb4.tape, hb4.output, hb4.size, hb4.block⟩
  have HB4 := Lib.hid hb4w
  have hbm : w4.heap[bm]? = some (.map es clock) := (hb4w.block bm (by have := HH.out.m1; have := HH.out.hle; omega)).trans hb
  obtain ⟨hlen4, h4 | ⟨g4, cap4, cur4, rfl, hg4, hh4, hnc4, hcm4, hcs4, ht4⟩⟩ := ho4
  · exact absurd h4.1 hv4
  have hg4' : w'.heap.size ≤ g4 := hg4
  have hl4 : g4 < w4.heap.size := (Array.getElem?_eq_some_iff.1 hh4).1
  have HH4 := Lib.hid hh4
  refine ⟨_, rfl, Keeps.of_below hb4, ?_⟩
  simp only [Act.put, List.setIfInBounds_toArray, List.set_cons_zero, List.set_cons_succ]
  refine anyCall (i := 9) (oi := { dst := some 15, op := Op.call { callee := Callee.value (Operand.func 39), args := #[Operand.tmp 14], argTypes := #[65] }, type := 65, pos := "disk.go:105", after := #[{ on := 8, ground := Ground.data }, { on := 4, ground := Ground.chain }], guard := none }) rfl (by kernel_rfl) (by rfl) ?_ (((HCM.out w4 bm es clock hbm)).mono ?_)
  · go_simp
  rintro e5 w5 ⟨rfl, rfl⟩
  refine ⟨_, rfl, Keeps.of_below (below_alloc w4 _), ?_⟩
  simp only [Act.put, List.setIfInBounds_toArray, List.set_cons_zero, List.set_cons_succ]
  refine anyTakeE (i := 10) (oi := { dst := some 16, op := Op.build 67 #[(0, Operand.tmp 10), (1, Operand.tmp 15)], type := 67, pos := "disk.go:105", after := #[{ on := 4, ground := Ground.data }, { on := 9, ground := Ground.data }], guard := none }) rfl (by kernel_rfl) (by kernel_rfl) (by kernel_rfl) (fun _ _ _ _ h => h) (by rfl) ?_
  apply Exists.intro
  refine ⟨fun w' hk => ?_, ?_⟩
  · go_simp <;> with_reducible rfl
  simp only [Act.put, List.setIfInBounds_toArray, List.set_cons_zero, List.set_cons_succ]
  refine anyOp (i := 11) (oi := { dst := some 17, op := Op.box 67 (Operand.tmp 16), type := 22, pos := "disk.go:105", after := #[{ on := 10, ground := Ground.data }], guard := none }) rfl (by kernel_rfl) (by kernel_rfl) ?_
  refine wp_box67 rfl rfl ?_
  refine ⟨Keeps.of_below (below_alloc _ _), ?_⟩
  simp only [Act.put, List.setIfInBounds_toArray, List.set_cons_zero, List.set_cons_succ]
  refine anyTakeE (i := 12) (oi := { dst := some 2, op := Op.assign (Operand.tmp 17), type := 22, pos := "disk.go:105", after := #[{ on := 11, ground := Ground.data }, { on := 9, ground := Ground.chain }, { on := 0, ground := Ground.phase }, { on := 1, ground := Ground.phase }, { on := 2, ground := Ground.phase }, { on := 3, ground := Ground.phase }, { on := 4, ground := Ground.phase }, { on := 5, ground := Ground.phase }, { on := 6, ground := Ground.phase }, { on := 7, ground := Ground.phase }, { on := 8, ground := Ground.phase }, { on := 9, ground := Ground.phase }, { on := 10, ground := Ground.phase }, { on := 11, ground := Ground.phase }], guard := none }) rfl (by kernel_rfl) (by kernel_rfl) (by kernel_rfl) (fun _ _ _ _ h => h) (by rfl) ?_
  apply Exists.intro
  refine ⟨fun w' hk => ?_, ?_⟩
  · go_simp <;> with_reducible rfl
  simp only [Act.put, List.setIfInBounds_toArray, List.set_cons_zero, List.set_cons_succ]
  refine anyDone (by kernel_rfl) ?_ _
  go_wp2
  go_ret
  have h := HH.out
  have hz4 := HB4.out.size
  have hpn := heap_alloc_new (w4.alloc (.map es clock)) (Obj.cells #[Value.slice (some { block := g4, off := 0 }) n cap4, Value.map (some w4.heap.size)] 67)
  rw [World.size_alloc] at hpn
  refine ⟨w4.heap.size + 1, rfl, ⟨g4, w4.heap.size, cap4, cur4, D, ⟨hpn, (Below.heap_alloc _ _ _ (by simp; omega)).trans ((Below.heap_alloc _ _ _ hl4).trans HH4.out), hcs4, hnc4, hcm4, by rw [Nat.mul_comm]; exact ht4, ⟨es, clock, (Below.heap_alloc _ _ _ (by simp)).trans (heap_alloc_new w4 _), Ft, hsz, hD⟩, h.ca, ?_, ?_, ?_, ?_, ?_, ?_, h.n1, h.n2, Nat.le_refl _, h.sok, h.cok⟩⟩, (HB4.out.alloc hz4 _).alloc (by simp; omega) _⟩
  all_goals (try simp)
  all_goals omega
end
set_option maxHeartbeats 600000 in
theorem clone_nil (w : World) : Calls Try.prog 16 #[.pointer none] w fun e w' => e = .returned (.pointer none) ∧ w' = w := by
  have hV := valid_nil
  go_enter Try.func16, Try.ntmps16
  go_wp2_with (go_at_call 35; refine (hV _).mono ?_; rintro e w' ⟨rfl, rfl⟩)
  go_ret
  exact ⟨rfl, rfl⟩
end Go.Proofs.Ytfhjcfoecmbhkaa
