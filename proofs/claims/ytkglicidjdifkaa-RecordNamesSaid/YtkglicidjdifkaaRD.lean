/- The chain behind a record. No statement is proved here. -/
import Derived.Test.YtkglicidjdifkaaRC
namespace Go.Proofs.Ytkglicidjdifkaa
open Go.RowKit
set_option linter.unusedVariables false
set_option linter.unusedSimpArgs false
theorem bcs_zero : (zbs 32) = (bcs (List.replicate 32 0)).toArray := rfl
set_option maxRecDepth 100000 in
set_option maxHeartbeats 1000000 in
theorem next_any (w : World) (S : Nat → Prop) (ch : List UInt8) (hl : ch.length = 32) (k : UInt8) (A : Option Addr) (n c : Nat) (d : List UInt8) (hs : Src w S A n (bcs d)) (hS : ∀ b, S b → b < w.heap.size) (hc : n ≤ c ∧ c ≤ maxLen) (hn : n ≤ 100000000) :
    Calls Try.prog 17 #[.agg (bcs ch).toArray, vR k A n c] w (Gives (.agg (bcs (nextL ch k d)).toArray) w) := by
  have hdn : d.length = n := src_len hs
  have HNX : Hid (nextL ch k d = sum256 [ch, hdL k n, d].flatten) := by rw [← hdn]; simp [Hid, nextL]
  have HNL := Lib.hid (nextL_len ch k d)
  have HLEN : [ch, hdL k n, d].flatten.length ≤ 1000000000 := by simp [hdL_len, hl, hdn]; have := sz_le n; omega
  have HLEN' := Lib.hid HLEN
  clear HLEN
  have HSD := Lib.hid hs
  have HL := Lib.hid hl
  clear hs hl hdn
  unfold vR
  go_enter Try.func17, Try.ntmps17
  go_wp2_with (first | (with_reducible refine wpList_box_row rfl 23 _ rfl _ rfl ?_; intro w1 hh1 hz1 hg1; have HC1 := Lib.hid (DAt.mk hh1 HL.out); have HB1 := Lib.hid (below_of_grownBy hg1); have HZ1 := Lib.hid hz1; clear hg1 hh1 hz1) | (with_reducible refine wpList_box_row rfl 31 _ rfl _ rfl ?_; intro w2 hh2 hz2 hg2; have HR2 := Lib.hid (RAt.mk hh2); have HB2 := Lib.hid (below_of_grownBy hg2); have HZ2 := Lib.hid hz2; clear hg2 hh2 hz2) | (with_reducible refine wpList_alloc_row rfl 23 rfl (.agg (zbs 32)) zero23 ?_; intro w3 hh3 hz3 hg3; have HO := Lib.hid (DAt.mk (ch := List.replicate 32 0) hh3 (by simp)); have HB3' := Lib.hid (below_of_grownBy hg3); have HZ3 := Lib.hid hz3; clear hg3 hh3 hz3))
  have HB3 : Hid (Below w.heap.size w w3) := Lib.hid ((HB1.out.trans (HB2.out.mono HB1.out.size)).trans (HB3'.out.mono (by have := HZ1.out; have := HZ2.out; omega)))
  have HC := Lib.hid ((HC1.out.below HB2.out (by have := HZ1.out; omega)).below HB3'.out (by have := HZ1.out; have := HZ2.out; omega))
  have HR := Lib.hid (HR2.out.below HB3'.out (by have := HZ2.out; omega))
  clear HC1 HB1 HR2 HB2 HB3'
  have HSD := Lib.hid (HSD.out.below' HB3.out hS)
  refine anyStart (fun b => b = w2.heap.size) (by kernel_rfl) ?_
  refine anyTake (i := 0) (oi := { dst := some 5, op := Op.slice 23 (Operand.tmp 2) none none none, type := 26, pos := "record.go:23", after := #[], guard := none }) rfl (by kernel_rfl) (by kernel_rfl) (by kernel_rfl) (fun _ _ _ h => h) (by rfl) (fun w' hk => exec_all23 rfl rfl) ?_
  simp only [Act.put, List.setIfInBounds_toArray, List.set_cons_zero, List.set_cons_succ]
  refine anyTake (i := 1) (oi := { dst := some 6, op := Op.load 31 (Operand.tmp 3), type := 31, pos := "record.go:23", after := #[], guard := none }) rfl (by kernel_rfl) (by kernel_rfl) (by kernel_rfl) (fun _ _ _ h => h) (by rfl) (fun w' hk => exec_rec rfl rfl (HR.out.drew.keeps hk (by have := HZ2.out; have := HZ1.out; omega))) ?_
  simp only [Act.put, List.setIfInBounds_toArray, List.set_cons_zero, List.set_cons_succ]
  refine anyTakeE (i := 3) (oi := { dst := some 8, op := Op.fieldAddr 31 (Operand.tmp 3) 1, type := 0, pos := "record.go:23", after := #[], guard := none }) rfl (by kernel_rfl) (by kernel_rfl) (by kernel_rfl) (fun _ _ _ _ h => h) (by rfl) ?_
  apply Exists.intro
  refine ⟨fun w' hk => ?_, ?_⟩
  · go_simp <;> with_reducible rfl
  simp only [Act.put, List.setIfInBounds_toArray, List.set_cons_zero, List.set_cons_succ]
  refine anyTake (i := 4) (oi := { dst := some 9, op := Op.load 26 (Operand.tmp 8), type := 26, pos := "record.go:23", after := #[{ on := 3, ground := Ground.data }], guard := none }) rfl (by kernel_rfl) (by kernel_rfl) (by kernel_rfl) (fun _ _ _ h => h) (by rfl) (fun w' hk => exec_one rfl rfl (Try.isAgg26 w') (HR.out.drew.keeps hk (by have := HZ2.out; have := HZ1.out; omega)).c1) ?_
  simp only [Act.put, List.setIfInBounds_toArray, List.set_cons_zero, List.set_cons_succ]
  refine anyCall (i := 2) (oi := { dst := some 7, op := Op.call { callee := Callee.value (Operand.func 24), args := #[Operand.tmp 6], argTypes := #[31] }, type := 26, pos := "record.go:23", after := #[{ on := 1, ground := Ground.data }], guard := none }) rfl (by kernel_rfl) (by rfl) ?_ ((head_any w3.drew k A n c (by omega)).mono ?_)
  · go_simp
  rintro e4 w4 ⟨v4, rfl, hf4⟩
  obtain ⟨A4, c4, rfl, hc4, hm4, hs4⟩ := hf4.shape
  have hb4 : Below w3.drew.heap.size w3.drew w4 := hf4.2
  have HB4d := Lib.hid hb4
  have HS4 := Lib.hid hs4
  have HM4 := Lib.hid (And.intro hc4 hm4)
  have HB4 := Lib.hid (show Below w3.heap.size w3 w4 from ⟨hb4.os, hb4.tape, hb4.output, hb4.size, hb4.block⟩)
  clear hs4 hb4 hf4 hc4 hm4
  refine ⟨_, rfl, Keeps.of_below HB4d.out, ?_⟩
  simp only [Act.put, List.setIfInBounds_toArray, List.set_cons_zero, List.set_cons_succ]
  refine anyVal (i := 5) (oi := { dst := some 10, op := Op.buildSlice 61 3 #[(0, Operand.tmp 5), (1, Operand.tmp 7), (2, Operand.tmp 9)], type := 61, pos := "record.go:23", after := #[{ on := 0, ground := Ground.data }, { on := 2, ground := Ground.data }, { on := 4, ground := Ground.data }], guard := none }) rfl (by kernel_rfl) (by rfl) (exec_three rfl rfl rfl rfl) (Keeps.of_below (below_alloc _ _)) ?_
  simp only [Act.put, List.setIfInBounds_toArray, List.set_cons_zero, List.set_cons_succ]
  have HPT : Parts (w4.alloc (.cells #[.slice (some ⟨w.heap.size, 0, none⟩) 32 32, .slice A4 (hdL k n).length c4, .slice A n c] 26)) (· < w4.heap.size + 1) (some ⟨w4.heap.size, 0, none⟩) [ch, hdL k n, d] := by
    have z1 := HZ1.out
    have z2 := HZ2.out
    have z3 := HZ3.out
    have zb := HB4.out.size
    have hdc : DAt w4 w.heap.size ch := HC.out.below HB4.out (by omega)
    have hsd : Src w4 S A n (bcs d) := HSD.out.below' HB4.out (fun b hb => by have := hS b hb; omega)
    refine trip_parts (S := (· < w4.heap.size)) (hdc.src.weak (fun b hb => by show b < _; omega)) (HS4.out.weak (fun b hb => hb.2)) (hsd.weak (fun b hb => by have := hS b hb; show b < _; omega)) (fun b hb => hb) ⟨Nat.le_refl _, by simp [maxLen]⟩ HM4.out hc
  have HD4 : Hid (DAt (w4.alloc (.cells #[.slice (some ⟨w.heap.size, 0, none⟩) 32 32, .slice A4 (hdL k n).length c4, .slice A n c] 26)) w2.heap.size (List.replicate 32 0)) := Lib.hid ((HO.out.below HB4.out (by have := HZ3.out; omega)).below (below_alloc _ _) (by have := HZ3.out; have := HB4.out.size; omega))
  have HB5a : Hid (Below w.heap.size w (w4.alloc (.cells #[.slice (some ⟨w.heap.size, 0, none⟩) 32 32, .slice A4 (hdL k n).length c4, .slice A n c] 26))) := Lib.hid ((HB3.out.trans (HB4.out.mono HB3.out.size)).trans ((below_alloc w4 _).mono (by have := HB3.out.size; have := HB4.out.size; omega)))
  refine anyCall (i := 6) (oi := { dst := some 11, op := Op.call { callee := Callee.value (Operand.func 21), args := #[Operand.tmp 10], argTypes := #[61] }, type := 23, pos := "record.go:23", after := #[{ on := 5, ground := Ground.data }, { on := 2, ground := Ground.chain }], guard := none }) rfl (by kernel_rfl) (by rfl) ?_ ((sum256_any [ch, hdL k n, d] (w4.alloc (.cells #[.slice (some ⟨w.heap.size, 0, none⟩) 32 32, .slice A4 (hdL k n).length c4, .slice A n c] 26)) (· < w4.heap.size + 1) (some ⟨w4.heap.size, 0, none⟩) 3 HPT (fun b hb => by simpa using hb) HLEN'.out (by simp)).mono ?_)
  · go_simp
  rintro e5 w5 ⟨rfl, hb5⟩
  have HB5 := Lib.hid hb5
  clear hb5
  refine ⟨_, rfl, Keeps.of_below HB5.out, ?_⟩
  simp only [Act.put, List.setIfInBounds_toArray, List.set_cons_zero, List.set_cons_succ]
  have HD5 := Lib.hid (HD4.out.below HB5.out (by rw [World.size_alloc]; have := HZ3.out; have := HB4.out.size; omega))
  refine anyStoreD (i := 7) (oi := { dst := none, op := Op.store 23 (Operand.tmp 4) (Operand.tmp 11), type := 0, pos := "record.go:23", after := #[{ on := 6, ground := Ground.data }, { on := 6, ground := Ground.chain }, { on := 0, ground := Ground.phase }, { on := 1, ground := Ground.phase }, { on := 2, ground := Ground.phase }, { on := 3, ground := Ground.phase }, { on := 4, ground := Ground.phase }, { on := 5, ground := Ground.phase }, { on := 6, ground := Ground.phase }], guard := none }) rfl (by kernel_rfl) (by rfl) (.tmp 4) (.tmp 11) rfl rfl (by rw [HNX.out]; rfl) HD5.out HNL.out rfl ?_
  intro w6 hd6 hg6 hz6
  simp only [Act.put, List.setIfInBounds_toArray, List.set_cons_zero, List.set_cons_succ]
  refine anyDone (by kernel_rfl) ?_ _
  go_wp2
  refine bodyPost_ret (results_cell_row rfl _ _ w2.heap.size 23 (bcs (nextL ch k d)).toArray _ _ rfl hd6.row under23 rfl (by rw [size23]; simp [bcs_len, HNL.out])) rfl ?_
  exact ⟨rfl, ((HB5a.out.trans (HB5.out.mono HB5a.out.size)).grown hg6 (by have := HB5a.out.size; have := HB5.out.size; omega) (fun r e => by injection e; have := HZ1.out; have := HZ2.out; omega))⟩
end Go.Proofs.Ytkglicidjdifkaa
