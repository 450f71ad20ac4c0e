/- A disk: whether a place is on it, its size, a new one, a write. No statement is proved here. -/
import Derived.Test.YtfhjcfoecmbhkaaDB
import Derived.Laws.MakeOwn
import Derived.Laws.Cover3
import Derived.Maps.OwnOps
namespace Go.Proofs.Ytfhjcfoecmbhkaa
open Go.RowKit Go.Maps
set_option linter.unusedVariables false
set_option linter.unusedSimpArgs false

theorem zero63 (w : World) : (zeroValue 63).run Try.prog w = .ok (.agg (zarr 256)) w := by kernel_rfl
theorem size63 : (Try.prog.info? 63).map (·.size) = some 256 := by kernel_rfl
theorem info63 : (Try.prog.info? 63).map (fun i => (i.zero, i.size, i.bytes)) = some (some (.agg (zarr 256)), 256, 256) := by kernel_rfl
theorem info5 : (Try.prog.info? 5).map (fun i => (i.zero, i.size, i.bytes)) = some (some (.int .u8 0), 1, 1) := by kernel_rfl
theorem under63 : Try.prog.underlying 63 = some (.array 256 5) := by kernel_rfl
theorem under59 : Try.prog.underlying 59 = some (.slice 63) := by kernel_rfl
theorem under27 : Try.prog.underlying 27 = some (.slice 5) := by kernel_rfl
theorem under65 : Try.prog.underlying 65 = some (.map 3 63) := by kernel_rfl
theorem run_arr63 (A : Option Addr) (n c : Nat) (h : 256 ≤ n) (w : World) : (Instr.arrayAt 63 (.slice A n c)).run Try.prog w = .ok (.pointer A) w := by
  have hn : ¬ n < 256 := by omega
  simp [Instr.arrayAt, run_underlying under63, hn]
theorem zarr_one (n : Nat) : ∀ u ∈ (zarr n).toList, u.oneCell' = true := by rw [zarr_bcs]; exact bcs_one _
/-- So many zeros. -/
def zs (n : Nat) : List UInt8 := List.replicate n 0
theorem zs_len (n : Nat) : (zs n).length = n := by simp [zs]
theorem flat_zero (n : Nat) : flat n (fun _ => zs 256) = zs (256 * n) := by
  induction n with
  | zero => rfl
  | succ n ih =>
    simp only [flat, ih]
    unfold zs
    rw [List.replicate_append_replicate]
    congr 1
theorem made_zero (n : Nat) : madeCells (Value.agg (zarr 256)).cells (n * 256) = (bcs (zs (256 * n))).toArray := by
  apply Array.ext
  · simp [madeCells, bcs, zs]; omega
  · intro i h1 h2
    have : i % 256 < 256 := Nat.mod_lt _ (by omega)
    simp [madeCells, bcs, bc, zs, Value.cells, zarr, this]
theorem made_zeroB (n : Nat) : madeCells (Value.int .u8 0).cells n = (bcs (zs n)).toArray := by
  apply Array.ext
  · simp [madeCells, bcs, zs]
  · intro i h1 h2
    simp [madeCells, bcs, bc, zs, Value.cells, Nat.mod_one]
theorem tokR_inj {v x : Value} {ps : List MemPlace} (h : tokR v = some (.held x, ps)) : v = x := by
  cases h
  rfl
theorem zarr_zs (n : Nat) : zarr n = (bcs (zs n)).toArray := by
  have := zarr_bcs n
  unfold zs
  rw [← this]
section
variable {P : Program} {ops : Array Oper} {rest : List Oper} {o : Oper} {a : Act} {w : World} {Q : Exit → Act → World → Prop}
/-- A slice of sectors is made. -/
theorem wpList_mkS (hgd : Region.wanted o (yielded ops a.tmps) = true) (x y : Operand) (ho : o.op = .makeSlice 59 x y) (n c : Nat) (hx : a.eval x = .int .i64 (n : Int)) (hy : a.eval y = .int .i64 (c : Int)) (hn : n ≤ c) (hc : c ≤ 1000000000)
    (h : ∀ w', w'.heap[w.heap.size]? = some (.cells (bcs (zs (256 * c))).toArray 63 (0, 0)) → w'.heap.size = w.heap.size + 1 → w.grownBy w' none → wpList Try.prog ops Q rest (a.put o.dst (.slice (some ⟨w.heap.size, 0, none⟩) n c)) w') :
    wpList Try.prog ops Q (o :: rest) a w := by
  obtain ⟨i0, hi, hz0, hz1, hz2⟩ := info_parts info63
  have hr := run_make (P := Try.prog) w 59 63 i0 (.agg (zarr 256)) under59 hi hz0 .i64 .i64 n c (by omega) (by omega) (by rw [hz2]; omega) (by omega)
  refine wpList_exec hgd _ (w' := w.alloc (.cells (bcs (zs (256 * c))).toArray 63)) ?_ (h _ (heap_alloc_new w _) (by simp) (World.grownBy_alloc w _ none))
  unfold execOp
  simp only [ho, hx, hy, Sem.run_bind, Sem.run_pure, Result.andThen_ok, hr]
  rw [hz1, made_zero, Int.toNat_natCast, Int.toNat_natCast]
/-- A slice of bytes is made. -/
theorem wpList_mkB (hgd : Region.wanted o (yielded ops a.tmps) = true) (x y : Operand) (ho : o.op = .makeSlice 27 x y) (n c : Nat) (hx : a.eval x = .int .i64 (n : Int)) (hy : a.eval y = .int .i64 (c : Int)) (hn : n ≤ c) (hc : c ≤ 1000000000)
    (h : ∀ w', w'.heap[w.heap.size]? = some (.cells (bcs (zs c)).toArray 5 (0, 0)) → w'.heap.size = w.heap.size + 1 → w.grownBy w' none → wpList Try.prog ops Q rest (a.put o.dst (.slice (some ⟨w.heap.size, 0, none⟩) n c)) w') :
    wpList Try.prog ops Q (o :: rest) a w := by
  obtain ⟨i0, hi, hz0, hz1, hz2⟩ := info_parts info5
  have hr := run_make (P := Try.prog) w 27 5 i0 (.int .u8 0) under27 hi hz0 .i64 .i64 n c (by omega) (by omega) (by rw [hz2]; omega) (by omega)
  refine wpList_exec hgd _ (w' := w.alloc (.cells (bcs (zs c)).toArray 5)) ?_ (h _ (heap_alloc_new w _) (by simp) (World.grownBy_alloc w _ none))
  unfold execOp
  simp only [ho, hx, hy, Sem.run_bind, Sem.run_pure, Result.andThen_ok, hr]
  simp [hz1, made_zeroB]
/-- A variable that holds a sector. -/
theorem wpList_al63 (hgd : Region.wanted o (yielded ops a.tmps) = true) (ho : o.op = .alloc 63)
    (h : ∀ w', w'.heap[w.heap.size]? = some (.cells (zarr 256) 63 (0, 0)) → w'.heap.size = w.heap.size + 1 → w.grownBy w' none → wpList Try.prog ops Q rest (a.put o.dst (.pointer (some ⟨w.heap.size, 0, none⟩))) w') :
    wpList Try.prog ops Q (o :: rest) a w :=
  wpList_alloc_row hgd 63 ho (.agg (zarr 256)) zero63 (fun w' h1 h2 h3 => h w' h1 h2 h3)
/-- A look-up with 'ok'. -/
theorem wpList_look2 (hgd : Region.wanted o (yielded ops a.tmps) = true) (m x : Operand) (ho : o.op = .lookup 65 m x true) {n i b k : Nat} {D : DataW Value} {C : Nat → Option (List UInt8)} (hm : a.eval m = .map (some b)) (hown : w.ownsMap Try.prog 3 tokR b k D) (hca : CAs D n C) (hx : a.eval x = .int .i64 (i : Int)) (hi : i < n) (hn : n ≤ 16384) (r : Option (List UInt8)) (hr : C i = r)
    (h : wpList Try.prog ops Q rest (a.put o.dst (.tuple #[.agg (bcs (r.getD (zs 256))).toArray, .bool r.isSome])) w) : wpList Try.prog ops Q (o :: rest) a w := by
  subst hr
  obtain ⟨v, ps, hrun, hv⟩ := hown.look_ok K3 under65 (zero63 w) (zd := .held (.agg (zarr 256))) (zp := []) rfl (ky_of (i := i) (by omega))
  rw [hca.has i hi] at hrun
  have hval : v = .agg (bcs ((C i).getD (zs 256))).toArray := by
    cases hc : C i with
    | none =>
      have h1 := hca.has i hi
      rw [hc] at h1
      rw [atKey_of_not_has h1] at hv
      have h2 := tokR_inj hv
      rw [h2, Option.getD_none, zarr_zs]
    | some s =>
      rw [hca.at_ i s hi hc] at hv
      exact tokR_inj hv
  subst hval
  refine wpList_exec hgd _ (w' := w) ?_ h
  unfold execOp
  simp only [ho, hm, hx, Sem.run_bind, Sem.run_pure, Result.andThen_ok, hrun]
theorem still_value {W : Act → Prop} {v : Value} (hw : Region.wanted o (yielded ops a.tmps) = true) (he : (execOp a.eval o).run P w = .ok (.value v) w) (h : wpStill P ops w W rest (a.put o.dst v)) : wpStill P ops w W (o :: rest) a :=
  wpStill_step (fun K hK => by
    rw [if_pos hw]
    unfold Oper.still
    rw [he, Oper.stillUpon_value]
    exact hK _ h)
end

section
variable {w : World} {lo hi p n : Nat} {S : Nat → List UInt8} {C : Nat → Option (List UInt8)}
set_option maxHeartbeats 600000 in
theorem wrong_in (h : Dk w lo hi p n S C) (i : Nat) (hi' : i < n) : Calls Try.prog 33 #[.pointer (some ⟨p, 0, none⟩), .int .i64 (i : Int)] w fun e w' => e = .returned (.int .i64 0) ∧ w' = w := by
  have hV := valid_any h
  obtain ⟨bs, bm, cap, cur, D, h⟩ := h
  have c0 := h.c0
  have h0 : ¬ ((i : Int) < 0) := by omega
  have h1 : (i : Int) < (n : Int) := by omega
  clear h
  go_enter Try.func33, Try.ntmps33
  go_wp2_with (go_at_call 35; refine hV.mono ?_; rintro e w' ⟨rfl, rfl⟩)
  go_ret
  exact ⟨rfl, rfl⟩
set_option maxHeartbeats 600000 in
theorem wrong_out (h : Dk w lo hi p n S C) (z : Int) (hz : z < 0 ∨ (n : Int) ≤ z) : Calls Try.prog 33 #[.pointer (some ⟨p, 0, none⟩), .int .i64 z] w fun e w' => e = .returned (.int .i64 2) ∧ w' = w := by
  have hV := valid_any h
  obtain ⟨bs, bm, cap, cur, D, h⟩ := h
  have c0 := h.c0
  have hn2 := h.n2
  clear h
  by_cases h0 : z < 0
  · go_enter Try.func33, Try.ntmps33
    go_wp2_with (go_at_call 35; refine hV.mono ?_; rintro e w' ⟨rfl, rfl⟩)
    go_ret
    exact ⟨rfl, rfl⟩
  · have h1 : ¬ (z < (n : Int)) := by omega
    have h2 : (n : Int) ≤ z := by omega
    go_enter Try.func33, Try.ntmps33
    go_wp2_with (go_at_call 35; refine hV.mono ?_; rintro e w' ⟨rfl, rfl⟩)
    go_ret
    exact ⟨rfl, rfl⟩
set_option maxHeartbeats 600000 in
theorem wrong_nil (z : Int) (w : World) : Calls Try.prog 33 #[.pointer none, .int .i64 z] w fun e w' => e = .returned (.int .i64 1) ∧ w' = w := by
  have hV := valid_nil
  go_enter Try.func33, Try.ntmps33
  go_wp2_with (go_at_call 35; refine (hV _).mono ?_; rintro e w' ⟨rfl, rfl⟩)
  go_ret
  exact ⟨rfl, rfl⟩
set_option maxHeartbeats 600000 in
theorem size_any (h : Dk w lo hi p n S C) : Calls Try.prog 15 #[.pointer (some ⟨p, 0, none⟩)] w fun e w' => e = .returned (.int .i64 (n : Int)) ∧ w' = w := by
  have hV := valid_any h
  obtain ⟨bs, bm, cap, cur, D, h⟩ := h
  have c0 := h.c0
  clear h
  go_enter Try.func15, Try.ntmps15
  go_wp2_with (go_at_call 35; refine hV.mono ?_; rintro e w' ⟨rfl, rfl⟩)
  go_ret
  exact ⟨rfl, rfl⟩
end
set_option maxHeartbeats 600000 in
theorem size_nil (w : World) : Calls Try.prog 15 #[.pointer none] w fun e w' => e = .returned (.int .i64 0) ∧ w' = w := by
  have hV := valid_nil
  go_enter Try.func15, Try.ntmps15
  go_wp2_with (go_at_call 35; refine (hV _).mono ?_; rintro e w' ⟨rfl, rfl⟩)
  go_ret
  exact ⟨rfl, rfl⟩
/-- A disk's parts get together. -/
theorem made_any (w : World) (lo bs n cap : Nat) (cur : Array Value) (S : Nat → List UInt8) (hs : w.heap[bs]? = some (.cells cur 63 (0, 0))) (hlo : lo ≤ bs) (hcs : cur.size = cap * 256) (hnc : n ≤ cap) (hcm : cap ≤ maxLen)
    (ht : cur.toList.take (256 * n) = bcs (flat n S)) (n1 : 1 ≤ n) (n2 : n ≤ 16384) (hok : SOk n S) :
    Calls Try.prog 31 #[.slice (some ⟨bs, 0, none⟩) n cap] w fun e w' => ∃ p, e = .returned (.pointer (some ⟨p, 0, none⟩)) ∧ Dk w' lo w'.heap.size p n S (fun _ => none) ∧ Below w.heap.size w w' := by
  have hmm := @run_makeMap Try.prog
  have hbs : bs < w.heap.size := (Array.getElem?_eq_some_iff.1 hs).1
  have hm0 := World.ownsMap_made (H := Value) w Try.prog 3 tokR
  have HM := Lib.hid hm0
  have HS := Lib.hid hs
  clear hm0 hs
  go_enter Try.func31, Try.ntmps31
  go_wp2
  go_ret
  refine ⟨_, rfl, ⟨bs, w.heap.size, cap, cur, .map [], ⟨?_, ?_, hcs, hnc, hcm, ht, ?_, CAs.empty n, ?_, ?_, ?_, ?_, ?_, ?_, n1, n2, Nat.le_refl _, hok, fun i hi s h => by cases h⟩⟩, ?_⟩
  · have := heap_alloc_new (w.alloc (.map #[] 0)) (Obj.cells #[Value.slice (some { block := bs, off := 0 }) n cap, Value.map (some w.heap.size)] 67)
    rw [World.size_alloc] at this
    exact this
  · exact (Below.heap_alloc _ _ _ (by simp; omega)).trans ((Below.heap_alloc _ _ _ hbs).trans HS.out)
  · exact HM.out.alloc _
  · simp; omega
  · simp; omega
  · simp; omega
  · omega
  · omega
  · omega
  · exact ((Below.refl _ w).alloc (Nat.le_refl _) _).alloc (by simp) _
set_option maxHeartbeats 600000 in
theorem new_any (w : World) (n : Nat) (n1 : 1 ≤ n) (n2 : n ≤ 16384) :
    Calls Try.prog 8 #[.int .i64 (n : Int)] w fun e w' => ∃ p, e = .returned (.tuple #[.pointer (some ⟨p, 0, none⟩), .int .i64 0]) ∧ Dk w' w.heap.size w'.heap.size p n (fun _ => zs 256) (fun _ => none) ∧ Below w.heap.size w w' := by
  have h0 : ¬ ((n : Int) < 1) := by omega
  have h1 : ¬ ((16384 : Int) < (n : Int)) := by omega
  go_enter Try.func8, Try.ntmps8
  go_wp2_with (first | (with_reducible refine wpList_mkS rfl (.tmp 10) (.tmp 10) rfl n n rfl rfl (Nat.le_refl _) (by omega) ?_; intro w1 hh hz hg) | (go_at_call 31; refine (made_any _ w.heap.size w.heap.size n n _ (fun _ => zs 256) hh (Nat.le_refl _) (by simp [bcs_len, zs_len]; omega) (Nat.le_refl _) (by unfold maxLen; omega) (by rw [flat_zero]; simp [List.take_of_length_le, bcs_len, zs_len]) n1 n2 (fun i hi => zs_len 256)).mono ?_; rintro e2 w2 ⟨p, rfl, hd, hb⟩))
  go_ret2
  exact ⟨p, rfl, hd, (below_of_grownBy hg).trans (hb.mono (by omega))⟩
set_option maxHeartbeats 600000 in
theorem new_zero (w : World) : Calls Try.prog 8 #[.int .i64 0] w fun e w' => e = .returned (.tuple #[.pointer none, .int .i64 2]) ∧ w' = w := by
  go_enter Try.func8, Try.ntmps8
  go_wp2
  go_ret2
  exact ⟨rfl, rfl⟩
section
variable {w : World} {lo hi p n : Nat} {S : Nat → List UInt8} {C : Nat → Option (List UInt8)}
set_option maxRecDepth 100000 in
set_option maxHeartbeats 600000 in
/-- A sector is written. -/
theorem write_in (h : Dk w lo hi p n S C) (i : Nat) (hi' : i < n) (SS : Nat → Prop) (A : Option Addr) (c : Nat) (s : List UInt8) (hs : Src w SS A 256 (bcs s)) :
    Calls Try.prog 12 #[.pointer (some ⟨p, 0, none⟩), .int .i64 (i : Int), .slice A 256 c] w fun e w' => e = .returned (.int .i64 0) ∧ Dk w' lo hi p n S (upd C i (some s)) ∧ Keeps (fun b => lo ≤ b ∧ b < hi) w w' := by
  have hW := wrong_in h i hi'
  obtain ⟨bs, bm, cap, cur, D, h⟩ := h
  have c1 := h.c1
  have HH := Lib.hid h
  have hra := fun w => run_arr63 A 256 c (by omega) w
  obtain ⟨b, o, rfl, hb, hcell⟩ := hs.lies (by omega)
  have HC := Lib.hid hcell
  have HL := Lib.hid hs.len
  clear h hcell hs
  go_enter Try.func12, Try.ntmps12
  go_wp2_with (go_at_call 33; refine hW.mono ?_; rintro e w' ⟨rfl, rfl⟩)
  have c1' : ({ heap := w'.heap, tape := w'.tape, drawn := w'.drawn + 1, os := w'.os, output := w'.output } : World).cell? ⟨p, 1, none⟩ = some (.map (some bm)) := c1
  refine wp_region_still_tail 8 (by kernel_rfl) (by kernel_rfl) ?_
  simp only [List.take_succ_cons, List.take_zero, List.drop_succ_cons, List.drop_zero]
  iterate 7 still_step
  refine still_value rfl (exec_load 63 (.tmp 23) rfl b o rfl (bcs s) (fun j u hu => ?_) _ under63 rfl (by rw [size63, HL.out])) ?_
  · have hj : j < 256 := by have := (List.getElem?_eq_some_iff.1 hu).1; have := HL.out; omega
    exact (HC.out j hj).trans hu
  refine wpStill_nil ?_
  have HH1 : Hid (DkB ({ heap := w'.heap, tape := w'.tape, drawn := w'.drawn + 1, os := w'.os, output := w'.output } : World) lo hi p n S C bs bm cap cur D) := Lib.hid (HH.out.keeps (Keeps.drew (fun _ => False) w') (fun _ _ _ => id))
  have HK1 : Hid (Keeps (fun b => lo ≤ b ∧ b < hi) w' ({ heap := w'.heap, tape := w'.tape, drawn := w'.drawn + 1, os := w'.os, output := w'.output } : World)) := Lib.hid (Keeps.drew _ w')
  generalize ({ heap := w'.heap, tape := w'.tape, drawn := w'.drawn + 1, os := w'.os, output := w'.output } : World) = wd at *
  clear c1 c1' hW hra HC HH
  have hn2 := HH1.out.n2
  refine wpList_mapUpdate_own _ rfl _ _ _ 65 rfl 3 63 K3 under65 tokR bm (size D) D rfl HH1.out.hm (by have := HH1.out.ca.size_le HH1.out.hm; unfold maxLen; omega) _ _ _ rfl rfl (ky_of (i := i) (by omega)) _ [] rfl ?_
  intro w2 hm2 hg2
  have HD : Hid (Dk w2 lo hi p n S (upd C i (some s))) := by
    have h := HH1.out
    have hm1 := h.m1
    have hle := h.hle
    have hp1 := h.p1
    have hs1 := h.s1
    have hpm := h.pm
    have hsm := h.sm
    exact Lib.hid ⟨bs, bm, cap, cur, _, (hg2.block p (by omega) (by simp; omega)).trans h.hp, (hg2.block bs (by omega) (by simp; omega)).trans h.hs, h.hcs, h.hnc, h.hcm, h.ht, ownsMap_size hm2, h.ca.put h.hm.isMap hi' s, h.p1, h.s1, h.m1, h.ps, h.pm, h.sm, h.n1, h.n2, Nat.le_trans h.hle hg2.size, h.sok, h.cok.upd (by have := HL.out; rwa [bcs_len] at this)⟩
  have HK2 := Lib.hid (HK1.out.trans (Keeps.of_grown (G := fun b => lo ≤ b ∧ b < hi) hg2 (fun r hr => by cases hr; exact HH1.out.m1)))
  clear hm2 hg2 HH1 HK1
  go_wp2
  go_ret
  exact ⟨rfl, HD.out, HK2.out⟩
end
end Go.Proofs.Ytfhjcfoecmbhkaa
