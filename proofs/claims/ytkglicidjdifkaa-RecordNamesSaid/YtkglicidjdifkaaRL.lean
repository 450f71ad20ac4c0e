/- The chapter's examples. No statement is proved here. -/
import Derived.Test.YtkglicidjdifkaaRK
import Derived.Lib.SlBytesConst
namespace Go.Proofs.Ytkglicidjdifkaa
open Go.RowKit
set_option linter.unusedVariables false
set_option linter.unusedSimpArgs false
theorem readE_zero (ch : List UInt8) : readE ch [0] = 4 := rfl
theorem readE_nil (ch : List UInt8) : readE ch [] = 5 := rfl
theorem exec_conv2 {P : Program} {a : Act} {w w' : World} {o : Oper} {s d : TypeId} {x : Operand} {v : Value} (ho : o.op = .convert s d x) (h : (convert s d (a.eval x)).run P w = .ok v w') : (execOp a.eval o).run P w = .ok (.value v) w' := by
  unfold execOp
  simp [ho, h]
set_option maxRecDepth 100000 in
set_option maxHeartbeats 2000000 in
theorem lives_any (w : World) : Calls Try.prog 11 #[] w (Gives (.bool true) w) := by
  have hb23 := build23
  have C1 := Lib.hid (fun W : World => recread_any (W.alloc (.cells #[.int .u8 ((0 : UInt8).toNat : Int)] 5)) (· < W.heap.size + 1) (List.replicate 32 0) (by simp) (some ⟨W.heap.size, 0, none⟩) 1 1 [0] (src1 W 0) (fun b hb => by simpa using hb) ⟨by omega, by simp [maxLen]⟩ (by omega))
  have C2 := Lib.hid (fun W : World => recread_any W (fun _ => False) (List.replicate 32 0) (by simp) none 0 0 [] (Src.nil_ _ _ _) (fun b hb => hb.elim) ⟨by omega, by simp [maxLen]⟩ (by omega))
  have C3 := Lib.hid (fun (W : World) (A : Option Addr) => size_any W 1 A 3 3 (by omega))
  unfold vR at C3
  go_enter Try.func11, Try.ntmps11
  go_wp2_with fail
  refine (C1.out w).mono ?_
  rintro e2 w2 ⟨-, h2, hb2⟩
  replace h2 := h2 (by rw [readE_zero]; decide)
  rw [readE_zero] at h2
  subst h2
  have HB2 := Lib.hid ((below_alloc w _).trans (hb2.mono (by simp)))
  clear hb2 C1
  unfold zR at *
  go_wp2_with (first | ((with_reducible show wpList _ _ _ (⟨some 1, .alloc 31, _, _, _, _⟩ :: _) _ _); refine wpList_alloc_row rfl 31 rfl zR zero31 ?_; intro w3 hh3 hz3 hg3; have HO3 := Lib.hid hh3; have HB3 := Lib.hid (below_of_grownBy hg3); have HZ3 := Lib.hid hz3; clear hh3 hz3 hg3) | ((with_reducible show wpList _ _ _ (⟨some 3, .alloc 23, _, _, _, _⟩ :: _) _ _); refine wpList_alloc_row rfl 23 rfl (.agg (zbs 32)) zero23 ?_; intro w4 hh4 hz4 hg4; have HO4 := Lib.hid hh4; have HB4 := Lib.hid (below_of_grownBy hg4); have HZ4 := Lib.hid hz4; clear hh4 hz4 hg4) | ((with_reducible show wpList _ _ _ (⟨none, .store 31 (.tmp 1) (.tmp 13), _, _, _, _⟩ :: _) _ _); refine wpList_store_all rfl 31 (.tmp 1) (.tmp 13) rfl w2.heap.size rfl #[.int .u8 0, .slice none 0 0] rfl 31 _ ((HB4.out.block _ (by have := HZ3.out; omega)).trans HO3.out) (by rw [size31]; rfl) rfl (by intro u hu; simp at hu; rcases hu with rfl | rfl <;> rfl) ?_; intro w5 hh5 hg5 hz5; have HG5 := Lib.hid hg5; have HO5 := Lib.hid ((hg5.block w3.heap.size (by have := HZ4.out; omega) (by simp; have := HZ3.out; omega)).trans HO4.out); clear hh5 hg5 hz5) | ((with_reducible show wpList _ _ _ (⟨none, .store 23 (.tmp 3) (.tmp 15), _, _, _, _⟩ :: _) _ _); refine wpList_store_all rfl 23 (.tmp 3) (.tmp 15) rfl w3.heap.size rfl (bcs (List.replicate 32 0)).toArray rfl 23 _ HO5.out (by rw [size23]; rfl) rfl (by simpa using bcs_one _) ?_; intro w6 hh6 hg6 hz6; have HG6 := Lib.hid hg6; clear hh6 hg6 hz6))
  have HB6 : Hid (Below w.heap.size w w6) := Lib.hid (((((HB2.out.trans (HB3.out.mono HB2.out.size)).trans (HB4.out.mono (Nat.le_trans HB2.out.size HB3.out.size))).grown HG5.out (by have := HB2.out.size; have := HB3.out.size; have := HB4.out.size; omega) (fun r e => by injection e with e; have := HB2.out.size; omega)).grown HG6.out (by have := HB2.out.size; have := HB3.out.size; have := HB4.out.size; have := HG5.out.size; omega) (fun r e => by injection e with e; have := HB2.out.size; have := HB3.out.size; omega)))
  clear HB2 HB3 HB4 HG5 HG6 HO3 HO4 HO5 HZ3 HZ4
  generalize w2.heap.size = a1 at *
  generalize w3.heap.size = a3 at *
  refine (C2.out w6).mono ?_
  rintro e7 w7 ⟨-, h7, hb7⟩
  replace h7 := h7 (by rw [readE_nil]; decide)
  rw [readE_nil] at h7
  subst h7
  have HB7 := Lib.hid (HB6.out.trans (hb7.mono HB6.out.size))
  clear hb7 C2 HB6
  unfold zR
  go_wp2_with (first | ((with_reducible show wpList _ _ _ (⟨some 5, .alloc 31, _, _, _, _⟩ :: _) _ _); refine wpList_alloc_row rfl 31 rfl zR zero31 ?_; intro w8 hh8 hz8 hg8; have HO8 := Lib.hid hh8; have HB8 := Lib.hid (below_of_grownBy hg8); have HZ8 := Lib.hid hz8; clear hh8 hz8 hg8) | ((with_reducible show wpList _ _ _ (⟨some 7, .alloc 23, _, _, _, _⟩ :: _) _ _); refine wpList_alloc_row rfl 23 rfl (.agg (zbs 32)) zero23 ?_; intro w9 hh9 hz9 hg9; have HO9 := Lib.hid hh9; have HB9 := Lib.hid (below_of_grownBy hg9); have HZ9 := Lib.hid hz9; clear hh9 hz9 hg9) | ((with_reducible show wpList _ _ _ (⟨none, .store 31 (.tmp 5) (.tmp 20), _, _, _, _⟩ :: _) _ _); refine wpList_store_all rfl 31 (.tmp 5) (.tmp 20) rfl w7.heap.size rfl #[.int .u8 0, .slice none 0 0] rfl 31 _ ((HB9.out.block _ (by have := HZ8.out; omega)).trans HO8.out) (by rw [size31]; rfl) rfl (by intro u hu; simp at hu; rcases hu with rfl | rfl <;> rfl) ?_; intro w10 hh10 hg10 hz10; have HG10 := Lib.hid hg10; have HO10 := Lib.hid ((hg10.block w8.heap.size (by have := HZ9.out; omega) (by simp; have := HZ8.out; omega)).trans HO9.out); clear hh10 hg10 hz10) | ((with_reducible show wpList _ _ _ (⟨none, .store 23 (.tmp 7) (.tmp 22), _, _, _, _⟩ :: _) _ _); refine wpList_store_all rfl 23 (.tmp 7) (.tmp 22) rfl w8.heap.size rfl (bcs (List.replicate 32 0)).toArray rfl 23 _ HO10.out (by rw [size23]; rfl) rfl (by simpa using bcs_one _) ?_; intro w11 hh11 hg11 hz11; have HG11 := Lib.hid hg11; clear hh11 hg11 hz11))
  have HB11 : Hid (Below w.heap.size w w11) := Lib.hid (((((HB7.out.trans (HB8.out.mono HB7.out.size)).trans (HB9.out.mono (Nat.le_trans HB7.out.size HB8.out.size))).grown HG10.out (by have := HB7.out.size; have := HB8.out.size; have := HB9.out.size; omega) (fun r e => by injection e with e; have := HB7.out.size; omega)).grown HG11.out (by have := HB7.out.size; have := HB8.out.size; have := HB9.out.size; have := HG10.out.size; omega) (fun r e => by injection e with e; have := HB7.out.size; have := HB8.out.size; omega)))
  clear HB7 HB8 HB9 HG10 HG11 HO8 HO9 HO10 HZ8 HZ9
  generalize w7.heap.size = a5 at *
  generalize w8.heap.size = a7 at *
  have hcv := fun (w : World) (C : Array Value) (n c : Nat) => Lib.run_convert_bytes_const (P := Try.prog) w 26 5 C n c Try.underlying26 Try.underlying5
  have hbb := fun (W : World) => build31 W 1 (some ⟨w11.heap.size, 0, none⟩) 3 3
  clear hb23
  go_wp2_with fail
  rw [hcv w11 #[.int .u8 97, .int .u8 98, .int .u8 99] 3 3]
  go_wp2_with fail
  refine (C3.out _ _).mono ?_
  rintro e12 w12 ⟨rfl, hb12⟩
  have HB12 := Lib.hid (HB11.out.trans (((below_alloc w11 _).mono HB11.out.size).trans (hb12.mono (by simp; have := HB11.out.size; omega))))
  clear hb12 C3
  have hv : ((if okR 1 3 = true then sizeR 3 else 0 : Nat) : Int) = 13 := rfl
  rw [hv]
  go_wp2
  go_ret
  exact ⟨rfl, HB12.out⟩
end Go.Proofs.Ytkglicidjdifkaa
