/- The reference's Piece. No statement is proved here. -/
import Derived.Test.YtphalfpmgbmcaaaCC
namespace Go.Proofs.Ytphalfpmgbmcaaa
open Go.RowKit
set_option linter.unusedVariables false
set_option linter.unusedSimpArgs false

theorem fit8z (s : St) : (ucs s.words).toArray.size = (zw 8).size := rfl
theorem sz27l' (s : St) : (Try.prog.info? 27).map (·.size) = some (ucs s.words).length := by rw [size27]; rfl
set_option maxRecDepth 100000 in
set_option maxHeartbeats 1000000 in
theorem rPiece_any (s : St) (hs : s.Fits) (blk : List UInt8) (hl : blk.length = 128) (w : World) :
    Calls Try.prog 22 #[.agg (ucs s.words).toArray, .agg (bcs blk).toArray] w (Gives (.agg (ucs (piece s blk).words).toArray) w) := by
  have HLL := Lib.hid hl
  have HFS := Lib.hid hs
  clear hl hs
  have HC1 := Lib.hid (fun W S A c h1 h2 => rpiece_any s HFS.out blk HLL.out W S A c h1 h2)
  generalize piece s blk = PP at *
  go_enter Try.func22, Try.ntmps22
  go_wp2_with (first | (with_reducible refine wpList_alloc_row rfl 27 rfl (.agg (zw 8)) zero27 ?_; intro w1 hh1 hz1 hg1))
  simp only [World.size_alloc] at hz1 hh1 ⊢
  have HS1 : Hid (w1.heap.size = w.heap.size + 3 ∧ w1.heap[w.heap.size]? = some (.cells (ucs s.words).toArray 27 (0, 0)) ∧ w1.heap[w.heap.size + 1]? = some (.cells (bcs blk).toArray 33 (0, 0)) ∧ w1.heap[w.heap.size + 1 + 1]? = some (.cells (zw 8) 27 (0, 0)) ∧ Below w.heap.size w w1) := by
    refine ⟨by omega, ?_, ?_, hh1, ?_⟩
    · exact (hg1.block _ (by simp; omega) (by simp)).trans ((below_alloc _ _).block _ (by simp) |>.trans (heap_alloc_new w _))
    · exact (hg1.block _ (by simp) (by simp)).trans (by have := heap_alloc_new (w.alloc (Obj.cells (ucs s.words).toArray 27)) (Obj.cells (bcs blk).toArray 33); simpa using this)
    · exact (((below_alloc w _).trans ((below_alloc _ _).mono (by simp))).grown hg1 (by simp; omega) (by simp))
  clear hh1 hg1
  have HLD : Hid (∀ w', Below w1.heap.size w1.drew w' → ∀ i u, (ucs s.words)[i]? = some u → w'.cell? ⟨w.heap.size, 0 + i, none⟩ = some u) := Lib.hid (fun w' hk i u hu => by
    have := HS1.out.1
    rw [Nat.zero_add]; exact row_cells ((hk.block w.heap.size (by omega)).trans HS1.out.2.1) i u (by simpa using hu))
  have HSR : Hid (Src w1.drew (fun b => b = w.heap.size + 1) (some ⟨w.heap.size + 1, 0, none⟩) 128 (bcs blk)) := Lib.hid ⟨by rw [bcs_len, HLL.out], fun _ => ⟨w.heap.size + 1, 0, rfl, rfl, fun i hi => by
    have h : w1.drew.heap[w.heap.size + 1]? = some (.cells (bcs blk).toArray 33 (0, 0)) := HS1.out.2.2.1
    rw [cell_of_row _ _ (0 + i) _ 33 (0, 0) h, Nat.zero_add]
    simp⟩⟩
  have HSB : Hid (∀ b, b = w.heap.size + 1 → b < w1.drew.heap.size) := Lib.hid (fun b hb => by have := HS1.out.1; show b < w1.heap.size; omega)
  have HU : Hid (∀ x1, Below w1.drew.heap.size w1.drew x1 → x1.heap[w.heap.size + 1 + 1]? = some (.cells (zw 8) 27 (0, 0)) ∧ Below w.heap.size w x1 ∧ w.heap.size + 1 + 1 < x1.heap.size) := Lib.hid (fun x1 hx => by
    obtain ⟨a1, a2, a3, a4, a5⟩ := HS1.out
    have hz : w1.heap.size ≤ x1.heap.size := hx.size
    exact ⟨(hx.block _ (by show _ < w1.heap.size; omega)).trans a4, (below_drewN' a5 1).trans (hx.mono (by show _ ≤ w1.heap.size; omega)), by omega⟩)
  clear HS1
  refine startW (fun i => i == 3) w1.heap.size (by kernel_rfl) ?_
  refine takeT (i := 0) (oi := { dst := some 5, op := Op.load 27 (Operand.tmp 2), type := 27, pos := "ref.go:146", after := #[], guard := none }) (.agg (ucs s.words).toArray) rfl (by kernel_rfl) (by kernel_rfl) (by kernel_rfl) (by kernel_rfl) (by kernel_rfl) (fun _ _ _ h => h) (by rfl) (fun w' hk => exec_load 27 (.tmp 2) rfl w.heap.size 0 rfl (ucs s.words) (HLD.out w' hk) _ under27 rfl (sz27l' s)) ?_
  simp only [Act.put, List.setIfInBounds_toArray, List.set_cons_zero, List.set_cons_succ]
  refine takeAE (i := 1) (oi := { dst := some 6, op := Op.slice 33 (Operand.tmp 3) none none none, type := 30, pos := "ref.go:146", after := #[], guard := none }) rfl (by kernel_rfl) (by kernel_rfl) (by kernel_rfl) (fun _ _ _ _ h => h) (by rfl) ?_
  refine ⟨.slice (some ⟨w.heap.size + 1, 0, none⟩) 128 128, fun w' => by go_simp <;> with_reducible rfl, ?_⟩
  simp only [Act.put, List.setIfInBounds_toArray, List.set_cons_zero, List.set_cons_succ]
  refine callW (i := 2) (oi := { dst := some 7, op := Op.call { callee := Callee.value (Operand.func 42), args := #[Operand.tmp 5, Operand.tmp 6], argTypes := #[27, 30] }, type := 27, pos := "ref.go:146", after := #[{ on := 0, ground := Ground.data }, { on := 1, ground := Ground.data }], guard := none }) rfl (by kernel_rfl) (by rfl) ?_ ((HC1.out _ _ _ 128 HSR.out HSB.out).mono ?_)
  · go_simp
  rintro e1 x1 ⟨rfl, hx1⟩
  refine ⟨_, rfl, fun _ => hx1, ?_⟩
  simp only [Act.put, List.setIfInBounds_toArray, List.set_cons_zero, List.set_cons_succ]
  have X1 := Lib.hid (HU.out x1 hx1)
  clear hx1
  refine storeW_all (i := 3) (oi := { dst := none, op := Op.store 27 (Operand.tmp 4) (Operand.tmp 7), type := 0, pos := "ref.go:146", after := #[{ on := 2, ground := Ground.data }, { on := 2, ground := Ground.chain }, { on := 0, ground := Ground.phase }, { on := 1, ground := Ground.phase }, { on := 2, ground := Ground.phase }], guard := none }) rfl (by kernel_rfl) (by rfl) 27 (.tmp 4) (.tmp 7) rfl (w.heap.size + 1 + 1) rfl (ucs PP.words).toArray rfl 27 (zw 8) X1.out.1 (sz27 PP) (fit8z PP) (ucs_one _) rfl ?_
  intro x3 hh3 hg3 hz3
  simp only [Act.put]
  refine doneW (by kernel_rfl) ?_ _
  have H3 := Lib.hid hh3
  have G3 := Lib.hid hg3
  clear hh3 hg3
  go_wp2
  refine bodyPost_ret (results_cell_row rfl _ _ (w.heap.size + 1 + 1) 27 (ucs PP.words).toArray _ _ rfl H3.out under27 rfl (sz27 _)) rfl ?_
  exact ⟨rfl, X1.out.2.1.grown G3.out (by have := X1.out.2.2; omega) (fun r hr => by injection hr; omega)⟩
end Go.Proofs.Ytphalfpmgbmcaaa
