/- It is proved that DiskNames returns true: the chapter's examples have the results that it states. Conditions: none. -/
import Derived.Test.YtfhjcfoecmbhkaaRows
import Derived.Test.YtfhjcfoecmbhkaaLG
import Derived.Test.YtfhjcfoecmbhkaaDV
import Derived.ProofKit
import Derived.OpenShut
import Derived.ChangeOld
namespace Go.Proofs.Ytfhjcfoecmbhkaa.diskNames
open Go.ChangeShapes Go.WideShapes Go.ChangeAt Go.RowKit
set_option linter.unusedVariables false
set_option linter.unusedSimpArgs false

theorem own : ownKnob Try.prog.godebug = none := by kernel_rfl
theorem laidOut : laidOutB Try.prog = true := by kernel_rfl
theorem rd_one (b : UInt8) : rd (secs (rep b)) (fun _ => none) 0 = rep b := by
  show ((rep b).drop (256 * 0)).take 256 = rep b
  rw [Nat.mul_zero, List.drop_zero]
  exact List.take_of_length_le (by rw [rep_len]; exact Nat.le_refl _)
theorem cks_one (s : List UInt8) : (cks 1 (upd (fun _ => none) 0 (some s))).length = 1 := rfl

set_option maxRecDepth 100000 in
set_option maxHeartbeats 4000000 in
theorem walk (w : World) : Calls Try.prog 3 #[] w fun e w' => e = .returned (.bool true) ∧ Below w.heap.size w w' := by
  have HRD := Lib.hid (rd_one 7)
  have HCK := Lib.hid (cks_one (rep 5))
  go_enter Try.func3, Try.ntmps3
  go_wp2_with (first | (go_at_call 8; refine (new_zero _).mono ?_; rintro e1 w ⟨rfl, hw1⟩; subst hw1) | ((with_reducible show wpList _ _ _ (⟨some 21, .makeSlice 27 _ _, _, _, _, _⟩ :: _) _ _); go_must (refine wpList_mkB rfl _ _ rfl 300 300 rfl rfl (Nat.le_refl _) (by omega) ?_; intro w2 hh2 hz2 hg2; have HB2 := Lib.hid (below_of_grownBy hg2); clear hh2 hg2 hz2)))
  refine (of_bad _ _ 300 _ (by omega)).mono ?_
  rintro e3 w3 ⟨rfl, hw3⟩
  subst hw3
  go_wp2_with fail
  refine (of_bad _ none 0 0 (by omega)).mono ?_
  rintro e4 w4 ⟨rfl, hw4⟩
  subst hw4
  go_wp2_with fail
  refine (row_any w4 7).mono ?_
  rintro e5 w5 ⟨rfl, hr5, hb5⟩
  have HB5 := Lib.hid (HB2.out.trans (hb5.mono HB2.out.size))
  have HS5 := Lib.hid (src_row hr5 (256 * 1) (rep_len 7))
  have HL5 : Hid (w4.heap.size < w5.heap.size) := Lib.hid (Array.getElem?_eq_some_iff.1 hr5).1
  clear hr5 hb5
  go_wp2_with fail
  refine (of_any w5 _ _ 1 256 (rep 7) HS5.out (fun b hb => by have := HL5.out; omega) (by omega) (by unfold maxLen; omega) (by omega) (by omega)).mono ?_
  rintro e6 w6 ⟨p, rfl, hd6, hb6⟩
  have HL6 : Hid (Lp w w6 w5.heap.size w6.heap.size p 1 (secs (rep 7), fun _ => none)) := Lib.hid ⟨hd6, HB5.out.trans (hb6.mono HB5.out.size), HB5.out.size⟩
  clear hd6 hb6 HS5 HL5 HB5 HB2
  generalize w5.heap.size = lo at *
  generalize w6.heap.size = hi at *
  go_wp2_with fail
  refine (read_out HL6.out.d 1 (by omega)).mono ?_
  rintro e7 w7 ⟨rfl, hw7⟩
  subst hw7
  go_wp2_with fail
  refine (read_in HL6.out.d 0 (by omega)).mono ?_
  rintro e8 w8 ⟨v8, rfl, ho8, hb8⟩
  obtain ⟨A8, c8, rfl, hs8⟩ := own_src ho8
  rw [HRD.out] at hs8
  have HS8 : Hid (Src w8 (fun g => hi ≤ g ∧ g < w8.heap.size) A8 256 (bcs (rep 7))) := Lib.hid (hs8.weak (fun g hg => ⟨by have := HL6.out.d.hle; omega, hg.2⟩))
  have HL8 := Lib.hid (HL6.out.below hb8)
  clear ho8 hs8 hb8 HL6
  go_wp2_with fail
  refine (write_len HL8.out.d 0 (by omega) none 0 0 (by omega) (by omega)).mono ?_
  rintro e9 w9 ⟨rfl, hw9⟩
  subst hw9
  go_wp2_with fail
  refine (row_any w9 5).mono ?_
  rintro e10 w10 ⟨rfl, hr10, hb10⟩
  have HL10 := Lib.hid (HL8.out.below hb10)
  have HS10 := Lib.hid (HS8.out.below' hb10 (fun b hb => hb.2))
  have HR10 := Lib.hid (src_row hr10 256 (rep_len 5))
  have HZ9 := Lib.hid hb10.size
  clear hr10 hb10 HL8 HS8
  go_wp2_with fail
  refine (write_in HL10.out.d 0 (by omega) _ _ 256 (rep 5) HR10.out).mono ?_
  rintro e11 w11 ⟨rfl, hd11, hk11⟩
  have HL11 : Hid (Lp w w11 lo hi p 1 (secs (rep 7), upd (fun _ => none) 0 (some (rep 5)))) := Lib.hid ⟨hd11, HL10.out.b.trans (hk11.below HL10.out.b.size (fun k hk => by have := HL10.out.lo; omega)), HL10.out.lo⟩
  have HS11 := Lib.hid (HS10.out.keeps hk11 (fun b hb => ⟨by have := HZ9.out; omega, by omega⟩))
  have HZ11 := Lib.hid (Nat.le_trans HZ9.out hk11.size)
  clear hd11 hk11 HL10 HS10 HR10
  go_wp2_with fail
  refine (cached_any HL11.out.d).mono ?_
  rintro e12 w12 ⟨v12, rfl, ho12, hb12⟩
  obtain ⟨A12, c12, rfl, hs12⟩ := own_src ho12
  have HL12 := Lib.hid (HL11.out.below hb12)
  have HS12 := Lib.hid (HS11.out.below' hb12 (fun b hb => by have := HZ11.out; omega))
  have HZ12 := Lib.hid (Nat.le_trans HZ11.out hb12.size)
  clear ho12 hs12 hb12 HL11 HS11
  rw [HCK.out]
  go_wp2_with fail
  refine anyStart (fun _ => False) (by kernel_rfl) ?_
  refine anyCall (i := 0) (oi := { dst := some 53, op := Op.call { callee := Callee.value (Operand.func 14), args := #[], argTypes := #[] }, type := 4, pos := "law.go:53", after := #[], guard := none }) rfl (by kernel_rfl) (by rfl) ?_ (((lives_any w12.drew)).mono ?_)
  · go_simp
  rintro e13 w13 ⟨rfl, hb13⟩
  have hb13w : Below w12.heap.size w12 w13 := ⟨hb13.os, hb13.tape, hb13.output, hb13.size, hb13.block⟩
  have HL13 := Lib.hid (HL12.out.below hb13w)
  have HS13 := Lib.hid (HS12.out.below' hb13w (fun b hb => by have := HZ12.out; omega))
  have HZ13 := Lib.hid (Nat.le_trans HZ12.out hb13w.size)
  clear HL12 HS12
  refine ⟨_, rfl, Keeps.of_below hb13, ?_⟩
  simp only [Act.put, List.setIfInBounds_toArray, List.set_cons_zero, List.set_cons_succ]
  refine anyTakeE (i := 1) (oi := { dst := some 54, op := Op.move (Operand.tmp 53), type := 4, pos := "law.go:53", after := #[{ on := 0, ground := Ground.data }, { on := 0, ground := Ground.chain }], guard := none }) rfl (by kernel_rfl) (by kernel_rfl) (by kernel_rfl) (fun _ _ _ _ h => h) (by rfl) ?_
  apply Exists.intro
  refine ⟨fun w' hk => ?_, ?_⟩
  · go_simp <;> with_reducible rfl
  simp only [Act.put, List.setIfInBounds_toArray, List.set_cons_zero, List.set_cons_succ]
  refine anyTakeE (i := 2) (oi := { dst := some 55, op := Op.move (Operand.tmp 2), type := 23, pos := "law.go:53", after := #[{ on := 1, ground := Ground.guard }], guard := some (1, true) }) rfl (by kernel_rfl) (by kernel_rfl) (by kernel_rfl) (fun _ _ _ _ h => h) (by rfl) ?_
  apply Exists.intro
  refine ⟨fun w' hk => ?_, ?_⟩
  · go_simp <;> with_reducible rfl
  simp only [Act.put, List.setIfInBounds_toArray, List.set_cons_zero, List.set_cons_succ]
  refine anyTakeE (i := 3) (oi := { dst := some 56, op := Op.binOp BinOp.eql 23 (Operand.tmp 55) (Operand.const (Value.int IntKind.i64 2)) 23, type := 4, pos := "law.go:53", after := #[{ on := 2, ground := Ground.data }, { on := 1, ground := Ground.guard }], guard := some (1, true) }) rfl (by kernel_rfl) (by kernel_rfl) (by kernel_rfl) (fun _ _ _ _ h => h) (by rfl) ?_
  apply Exists.intro
  refine ⟨fun w' hk => ?_, ?_⟩
  · go_simp <;> with_reducible rfl
  simp only [Act.put, List.setIfInBounds_toArray, List.set_cons_zero, List.set_cons_succ]
  refine anyTakeE (i := 4) (oi := { dst := some 57, op := Op.pick (Operand.tmp 54) (Operand.tmp 56) (Operand.const (Value.bool false)), type := 4, pos := "law.go:53", after := #[{ on := 1, ground := Ground.data }, { on := 3, ground := Ground.data }], guard := none }) rfl (by kernel_rfl) (by kernel_rfl) (by kernel_rfl) (fun _ _ _ _ h => h) (by rfl) ?_
  apply Exists.intro
  refine ⟨fun w' hk => ?_, ?_⟩
  · go_simp <;> with_reducible rfl
  simp only [Act.put, List.setIfInBounds_toArray, List.set_cons_zero, List.set_cons_succ]
  refine anyTakeE (i := 5) (oi := { dst := some 58, op := Op.move (Operand.tmp 57), type := 4, pos := "law.go:53", after := #[{ on := 4, ground := Ground.data }, { on := 1, ground := Ground.chain }], guard := none }) rfl (by kernel_rfl) (by kernel_rfl) (by kernel_rfl) (fun _ _ _ _ h => h) (by rfl) ?_
  apply Exists.intro
  refine ⟨fun w' hk => ?_, ?_⟩
  · go_simp <;> with_reducible rfl
  simp only [Act.put, List.setIfInBounds_toArray, List.set_cons_zero, List.set_cons_succ]
  refine anyTakeE (i := 6) (oi := { dst := some 59, op := Op.move (Operand.tmp 4), type := 23, pos := "law.go:53", after := #[{ on := 5, ground := Ground.guard }], guard := some (5, true) }) rfl (by kernel_rfl) (by kernel_rfl) (by kernel_rfl) (fun _ _ _ _ h => h) (by rfl) ?_
  apply Exists.intro
  refine ⟨fun w' hk => ?_, ?_⟩
  · go_simp <;> with_reducible rfl
  simp only [Act.put, List.setIfInBounds_toArray, List.set_cons_zero, List.set_cons_succ]
  refine anyTakeE (i := 7) (oi := { dst := some 60, op := Op.binOp BinOp.eql 23 (Operand.tmp 59) (Operand.const (Value.int IntKind.i64 2)) 23, type := 4, pos := "law.go:53", after := #[{ on := 6, ground := Ground.data }, { on := 5, ground := Ground.guard }], guard := some (5, true) }) rfl (by kernel_rfl) (by kernel_rfl) (by kernel_rfl) (fun _ _ _ _ h => h) (by rfl) ?_
  apply Exists.intro
  refine ⟨fun w' hk => ?_, ?_⟩
  · go_simp <;> with_reducible rfl
  simp only [Act.put, List.setIfInBounds_toArray, List.set_cons_zero, List.set_cons_succ]
  refine anyTakeE (i := 8) (oi := { dst := some 61, op := Op.pick (Operand.tmp 58) (Operand.tmp 60) (Operand.const (Value.bool false)), type := 4, pos := "law.go:53", after := #[{ on := 5, ground := Ground.data }, { on := 7, ground := Ground.data }], guard := none }) rfl (by kernel_rfl) (by kernel_rfl) (by kernel_rfl) (fun _ _ _ _ h => h) (by rfl) ?_
  apply Exists.intro
  refine ⟨fun w' hk => ?_, ?_⟩
  · go_simp <;> with_reducible rfl
  simp only [Act.put, List.setIfInBounds_toArray, List.set_cons_zero, List.set_cons_succ]
  refine anyTakeE (i := 9) (oi := { dst := some 62, op := Op.move (Operand.tmp 61), type := 4, pos := "law.go:53", after := #[{ on := 8, ground := Ground.data }, { on := 5, ground := Ground.chain }], guard := none }) rfl (by kernel_rfl) (by kernel_rfl) (by kernel_rfl) (fun _ _ _ _ h => h) (by rfl) ?_
  apply Exists.intro
  refine ⟨fun w' hk => ?_, ?_⟩
  · go_simp <;> with_reducible rfl
  simp only [Act.put, List.setIfInBounds_toArray, List.set_cons_zero, List.set_cons_succ]
  refine anyTakeE (i := 10) (oi := { dst := some 63, op := Op.move (Operand.tmp 6), type := 23, pos := "law.go:53", after := #[{ on := 9, ground := Ground.guard }], guard := some (9, true) }) rfl (by kernel_rfl) (by kernel_rfl) (by kernel_rfl) (fun _ _ _ _ h => h) (by rfl) ?_
  apply Exists.intro
  refine ⟨fun w' hk => ?_, ?_⟩
  · go_simp <;> with_reducible rfl
  simp only [Act.put, List.setIfInBounds_toArray, List.set_cons_zero, List.set_cons_succ]
  refine anyTakeE (i := 11) (oi := { dst := some 64, op := Op.binOp BinOp.eql 23 (Operand.tmp 63) (Operand.const (Value.int IntKind.i64 2)) 23, type := 4, pos := "law.go:53", after := #[{ on := 10, ground := Ground.data }, { on := 9, ground := Ground.guard }], guard := some (9, true) }) rfl (by kernel_rfl) (by kernel_rfl) (by kernel_rfl) (fun _ _ _ _ h => h) (by rfl) ?_
  apply Exists.intro
  refine ⟨fun w' hk => ?_, ?_⟩
  · go_simp <;> with_reducible rfl
  simp only [Act.put, List.setIfInBounds_toArray, List.set_cons_zero, List.set_cons_succ]
  refine anyTakeE (i := 12) (oi := { dst := some 65, op := Op.pick (Operand.tmp 62) (Operand.tmp 64) (Operand.const (Value.bool false)), type := 4, pos := "law.go:53", after := #[{ on := 9, ground := Ground.data }, { on := 11, ground := Ground.data }], guard := none }) rfl (by kernel_rfl) (by kernel_rfl) (by kernel_rfl) (fun _ _ _ _ h => h) (by rfl) ?_
  apply Exists.intro
  refine ⟨fun w' hk => ?_, ?_⟩
  · go_simp <;> with_reducible rfl
  simp only [Act.put, List.setIfInBounds_toArray, List.set_cons_zero, List.set_cons_succ]
  refine anyTakeE (i := 13) (oi := { dst := some 66, op := Op.move (Operand.tmp 65), type := 4, pos := "law.go:53", after := #[{ on := 12, ground := Ground.data }, { on := 9, ground := Ground.chain }], guard := none }) rfl (by kernel_rfl) (by kernel_rfl) (by kernel_rfl) (fun _ _ _ _ h => h) (by rfl) ?_
  apply Exists.intro
  refine ⟨fun w' hk => ?_, ?_⟩
  · go_simp <;> with_reducible rfl
  simp only [Act.put, List.setIfInBounds_toArray, List.set_cons_zero, List.set_cons_succ]
  refine anyTakeE (i := 14) (oi := { dst := some 67, op := Op.move (Operand.tmp 10), type := 23, pos := "law.go:53", after := #[{ on := 13, ground := Ground.guard }], guard := some (13, true) }) rfl (by kernel_rfl) (by kernel_rfl) (by kernel_rfl) (fun _ _ _ _ h => h) (by rfl) ?_
  apply Exists.intro
  refine ⟨fun w' hk => ?_, ?_⟩
  · go_simp <;> with_reducible rfl
  simp only [Act.put, List.setIfInBounds_toArray, List.set_cons_zero, List.set_cons_succ]
  refine anyTakeE (i := 15) (oi := { dst := some 68, op := Op.binOp BinOp.eql 23 (Operand.tmp 67) (Operand.const (Value.int IntKind.i64 2)) 23, type := 4, pos := "law.go:53", after := #[{ on := 14, ground := Ground.data }, { on := 13, ground := Ground.guard }], guard := some (13, true) }) rfl (by kernel_rfl) (by kernel_rfl) (by kernel_rfl) (fun _ _ _ _ h => h) (by rfl) ?_
  apply Exists.intro
  refine ⟨fun w' hk => ?_, ?_⟩
  · go_simp <;> with_reducible rfl
  simp only [Act.put, List.setIfInBounds_toArray, List.set_cons_zero, List.set_cons_succ]
  refine anyTakeE (i := 16) (oi := { dst := some 69, op := Op.pick (Operand.tmp 66) (Operand.tmp 68) (Operand.const (Value.bool false)), type := 4, pos := "law.go:53", after := #[{ on := 13, ground := Ground.data }, { on := 15, ground := Ground.data }], guard := none }) rfl (by kernel_rfl) (by kernel_rfl) (by kernel_rfl) (fun _ _ _ _ h => h) (by rfl) ?_
  apply Exists.intro
  refine ⟨fun w' hk => ?_, ?_⟩
  · go_simp <;> with_reducible rfl
  simp only [Act.put, List.setIfInBounds_toArray, List.set_cons_zero, List.set_cons_succ]
  refine anyTakeE (i := 17) (oi := { dst := some 70, op := Op.move (Operand.tmp 69), type := 4, pos := "law.go:53", after := #[{ on := 16, ground := Ground.data }, { on := 13, ground := Ground.chain }], guard := none }) rfl (by kernel_rfl) (by kernel_rfl) (by kernel_rfl) (fun _ _ _ _ h => h) (by rfl) ?_
  apply Exists.intro
  refine ⟨fun w' hk => ?_, ?_⟩
  · go_simp <;> with_reducible rfl
  simp only [Act.put, List.setIfInBounds_toArray, List.set_cons_zero, List.set_cons_succ]
  refine anyTakeE (i := 18) (oi := { dst := some 71, op := Op.move (Operand.tmp 12), type := 23, pos := "law.go:53", after := #[{ on := 17, ground := Ground.guard }], guard := some (17, true) }) rfl (by kernel_rfl) (by kernel_rfl) (by kernel_rfl) (fun _ _ _ _ h => h) (by rfl) ?_
  apply Exists.intro
  refine ⟨fun w' hk => ?_, ?_⟩
  · go_simp <;> with_reducible rfl
  simp only [Act.put, List.setIfInBounds_toArray, List.set_cons_zero, List.set_cons_succ]
  refine anyTakeE (i := 19) (oi := { dst := some 72, op := Op.binOp BinOp.eql 23 (Operand.tmp 71) (Operand.const (Value.int IntKind.i64 0)) 23, type := 4, pos := "law.go:53", after := #[{ on := 18, ground := Ground.data }, { on := 17, ground := Ground.guard }], guard := some (17, true) }) rfl (by kernel_rfl) (by kernel_rfl) (by kernel_rfl) (fun _ _ _ _ h => h) (by rfl) ?_
  apply Exists.intro
  refine ⟨fun w' hk => ?_, ?_⟩
  · go_simp <;> with_reducible rfl
  simp only [Act.put, List.setIfInBounds_toArray, List.set_cons_zero, List.set_cons_succ]
  refine anyTakeE (i := 20) (oi := { dst := some 73, op := Op.pick (Operand.tmp 70) (Operand.tmp 72) (Operand.const (Value.bool false)), type := 4, pos := "law.go:53", after := #[{ on := 17, ground := Ground.data }, { on := 19, ground := Ground.data }], guard := none }) rfl (by kernel_rfl) (by kernel_rfl) (by kernel_rfl) (fun _ _ _ _ h => h) (by rfl) ?_
  apply Exists.intro
  refine ⟨fun w' hk => ?_, ?_⟩
  · go_simp <;> with_reducible rfl
  simp only [Act.put, List.setIfInBounds_toArray, List.set_cons_zero, List.set_cons_succ]
  refine anyTakeE (i := 21) (oi := { dst := some 74, op := Op.move (Operand.tmp 73), type := 4, pos := "law.go:53", after := #[{ on := 20, ground := Ground.data }, { on := 17, ground := Ground.chain }], guard := none }) rfl (by kernel_rfl) (by kernel_rfl) (by kernel_rfl) (fun _ _ _ _ h => h) (by rfl) ?_
  apply Exists.intro
  refine ⟨fun w' hk => ?_, ?_⟩
  · go_simp <;> with_reducible rfl
  simp only [Act.put, List.setIfInBounds_toArray, List.set_cons_zero, List.set_cons_succ]
  refine anyTakeE (i := 22) (oi := { dst := some 75, op := Op.move (Operand.tmp 11), type := 27, pos := "law.go:53", after := #[{ on := 21, ground := Ground.guard }], guard := some (21, true) }) rfl (by kernel_rfl) (by kernel_rfl) (by kernel_rfl) (fun _ _ _ _ h => h) (by rfl) ?_
  apply Exists.intro
  refine ⟨fun w' hk => ?_, ?_⟩
  · go_simp <;> with_reducible rfl
  simp only [Act.put, List.setIfInBounds_toArray, List.set_cons_zero, List.set_cons_succ]
  refine anyTake (i := 23) (oi := { dst := some 76, op := Op.convert 27 9 (Operand.tmp 75), type := 9, pos := "law.go:53", after := #[{ on := 22, ground := Ground.data }, { on := 21, ground := Ground.guard }], guard := some (21, true) }) rfl (by kernel_rfl) (by kernel_rfl) (by kernel_rfl) (fun _ _ _ h => h) (by rfl) (fun w' hk => exec_convert (s := 27) (d := 9) (x := .tmp 75) rfl (conv_src (c := c8) (HS13.out.keeps hk (fun b hb => ⟨by have := HZ13.out; omega, id⟩)))) ?_
  simp only [Act.put, List.setIfInBounds_toArray, List.set_cons_zero, List.set_cons_succ]
  refine anyCall (i := 24) (oi := { dst := some 77, op := Op.call { callee := Callee.value (Operand.func 10), args := #[Operand.const (Value.int IntKind.u8 7)], argTypes := #[5] }, type := 27, pos := "law.go:53", after := #[{ on := 21, ground := Ground.chain }, { on := 21, ground := Ground.guard }], guard := some (21, true) }) rfl (by kernel_rfl) (by rfl) ?_ (((row_any w13 7)).mono ?_)
  · go_simp
  rintro e14 w14 ⟨rfl, hr14, hb14⟩
  have HL14 := Lib.hid (HL13.out.below hb14)
  have HR14 := Lib.hid (src_row hr14 256 (rep_len 7))
  have HZ14 : Hid (w13.heap.size < w14.heap.size) := Lib.hid (Array.getElem?_eq_some_iff.1 hr14).1
  clear HL13
  refine ⟨_, rfl, Keeps.of_below hb14, ?_⟩
  simp only [Act.put, List.setIfInBounds_toArray, List.set_cons_zero, List.set_cons_succ]
  refine anyTake (i := 25) (oi := { dst := some 78, op := Op.convert 27 9 (Operand.tmp 77), type := 9, pos := "law.go:53", after := #[{ on := 24, ground := Ground.data }, { on := 21, ground := Ground.guard }], guard := some (21, true) }) rfl (by kernel_rfl) (by kernel_rfl) (by kernel_rfl) (fun _ _ _ h => h) (by rfl) (fun w' hk => exec_convert (s := 27) (d := 9) (x := .tmp 77) rfl (conv_src (c := 256) (HR14.out.keeps hk (fun b hb => ⟨by have := HZ14.out; omega, id⟩)))) ?_
  simp only [Act.put, List.setIfInBounds_toArray, List.set_cons_zero, List.set_cons_succ]
  refine anyTakeE (i := 26) (oi := { dst := some 79, op := Op.binOp BinOp.eql 9 (Operand.tmp 76) (Operand.tmp 78) 9, type := 4, pos := "law.go:53", after := #[{ on := 23, ground := Ground.data }, { on := 25, ground := Ground.data }, { on := 21, ground := Ground.guard }], guard := some (21, true) }) rfl (by kernel_rfl) (by kernel_rfl) (by kernel_rfl) (fun _ _ _ _ h => h) (by rfl) ?_
  apply Exists.intro
  refine ⟨fun w' hk => ?_, ?_⟩
  · go_simp <;> with_reducible rfl
  simp only [Act.put, List.setIfInBounds_toArray, List.set_cons_zero, List.set_cons_succ]
  refine anyTakeE (i := 27) (oi := { dst := some 80, op := Op.pick (Operand.tmp 74) (Operand.tmp 79) (Operand.const (Value.bool false)), type := 4, pos := "law.go:53", after := #[{ on := 21, ground := Ground.data }, { on := 26, ground := Ground.data }], guard := none }) rfl (by kernel_rfl) (by kernel_rfl) (by kernel_rfl) (fun _ _ _ _ h => h) (by rfl) ?_
  apply Exists.intro
  refine ⟨fun w' hk => ?_, ?_⟩
  · go_simp <;> with_reducible rfl
  simp only [Act.put, List.setIfInBounds_toArray, List.set_cons_zero, List.set_cons_succ]
  refine anyTakeE (i := 28) (oi := { dst := some 81, op := Op.move (Operand.tmp 80), type := 4, pos := "law.go:53", after := #[{ on := 27, ground := Ground.data }, { on := 24, ground := Ground.chain }], guard := none }) rfl (by kernel_rfl) (by kernel_rfl) (by kernel_rfl) (fun _ _ _ _ h => h) (by rfl) ?_
  apply Exists.intro
  refine ⟨fun w' hk => ?_, ?_⟩
  · go_simp <;> with_reducible rfl
  simp only [Act.put, List.setIfInBounds_toArray, List.set_cons_zero, List.set_cons_succ]
  refine anyTakeE (i := 29) (oi := { dst := some 82, op := Op.move (Operand.tmp 13), type := 23, pos := "law.go:53", after := #[{ on := 28, ground := Ground.guard }], guard := some (28, true) }) rfl (by kernel_rfl) (by kernel_rfl) (by kernel_rfl) (fun _ _ _ _ h => h) (by rfl) ?_
  apply Exists.intro
  refine ⟨fun w' hk => ?_, ?_⟩
  · go_simp <;> with_reducible rfl
  simp only [Act.put, List.setIfInBounds_toArray, List.set_cons_zero, List.set_cons_succ]
  refine anyTakeE (i := 30) (oi := { dst := some 83, op := Op.binOp BinOp.eql 23 (Operand.tmp 82) (Operand.const (Value.int IntKind.i64 2)) 23, type := 4, pos := "law.go:53", after := #[{ on := 29, ground := Ground.data }, { on := 28, ground := Ground.guard }], guard := some (28, true) }) rfl (by kernel_rfl) (by kernel_rfl) (by kernel_rfl) (fun _ _ _ _ h => h) (by rfl) ?_
  apply Exists.intro
  refine ⟨fun w' hk => ?_, ?_⟩
  · go_simp <;> with_reducible rfl
  simp only [Act.put, List.setIfInBounds_toArray, List.set_cons_zero, List.set_cons_succ]
  refine anyTakeE (i := 31) (oi := { dst := some 84, op := Op.pick (Operand.tmp 81) (Operand.tmp 83) (Operand.const (Value.bool false)), type := 4, pos := "law.go:53", after := #[{ on := 28, ground := Ground.data }, { on := 30, ground := Ground.data }], guard := none }) rfl (by kernel_rfl) (by kernel_rfl) (by kernel_rfl) (fun _ _ _ _ h => h) (by rfl) ?_
  apply Exists.intro
  refine ⟨fun w' hk => ?_, ?_⟩
  · go_simp <;> with_reducible rfl
  simp only [Act.put, List.setIfInBounds_toArray, List.set_cons_zero, List.set_cons_succ]
  refine anyTakeE (i := 32) (oi := { dst := some 85, op := Op.move (Operand.tmp 84), type := 4, pos := "law.go:53", after := #[{ on := 31, ground := Ground.data }, { on := 28, ground := Ground.chain }], guard := none }) rfl (by kernel_rfl) (by kernel_rfl) (by kernel_rfl) (fun _ _ _ _ h => h) (by rfl) ?_
  apply Exists.intro
  refine ⟨fun w' hk => ?_, ?_⟩
  · go_simp <;> with_reducible rfl
  simp only [Act.put, List.setIfInBounds_toArray, List.set_cons_zero, List.set_cons_succ]
  refine anyTakeE (i := 33) (oi := { dst := some 86, op := Op.move (Operand.tmp 14), type := 32, pos := "law.go:53", after := #[{ on := 32, ground := Ground.guard }], guard := some (32, true) }) rfl (by kernel_rfl) (by kernel_rfl) (by kernel_rfl) (fun _ _ _ _ h => h) (by rfl) ?_
  apply Exists.intro
  refine ⟨fun w' hk => ?_, ?_⟩
  · go_simp <;> with_reducible rfl
  simp only [Act.put, List.setIfInBounds_toArray, List.set_cons_zero, List.set_cons_succ]
  refine anyTakeE (i := 34) (oi := { dst := some 87, op := Op.call { callee := Callee.builtin Builtin.len, args := #[Operand.tmp 86], argTypes := #[32] }, type := 3, pos := "law.go:53", after := #[{ on := 33, ground := Ground.data }, { on := 32, ground := Ground.guard }], guard := some (32, true) }) rfl (by kernel_rfl) (by kernel_rfl) (by kernel_rfl) (fun _ _ _ _ h => h) (by rfl) ?_
  apply Exists.intro
  refine ⟨fun w' hk => ?_, ?_⟩
  · go_simp <;> with_reducible rfl
  simp only [Act.put, List.setIfInBounds_toArray, List.set_cons_zero, List.set_cons_succ]
  refine anyTakeE (i := 35) (oi := { dst := some 88, op := Op.binOp BinOp.eql 3 (Operand.tmp 87) (Operand.const (Value.int IntKind.i64 1)) 3, type := 4, pos := "law.go:53", after := #[{ on := 34, ground := Ground.data }, { on := 32, ground := Ground.guard }], guard := some (32, true) }) rfl (by kernel_rfl) (by kernel_rfl) (by kernel_rfl) (fun _ _ _ _ h => h) (by rfl) ?_
  apply Exists.intro
  refine ⟨fun w' hk => ?_, ?_⟩
  · go_simp <;> with_reducible rfl
  simp only [Act.put, List.setIfInBounds_toArray, List.set_cons_zero, List.set_cons_succ]
  refine anyTakeE (i := 36) (oi := { dst := some 89, op := Op.pick (Operand.tmp 85) (Operand.tmp 88) (Operand.const (Value.bool false)), type := 4, pos := "law.go:53", after := #[{ on := 32, ground := Ground.data }, { on := 35, ground := Ground.data }], guard := none }) rfl (by kernel_rfl) (by kernel_rfl) (by kernel_rfl) (fun _ _ _ _ h => h) (by rfl) ?_
  apply Exists.intro
  refine ⟨fun w' hk => ?_, ?_⟩
  · go_simp <;> with_reducible rfl
  simp only [Act.put, List.setIfInBounds_toArray, List.set_cons_zero, List.set_cons_succ]
  refine anyTakeE (i := 37) (oi := { dst := some 90, op := Op.move (Operand.tmp 89), type := 4, pos := "law.go:53", after := #[{ on := 36, ground := Ground.data }, { on := 32, ground := Ground.chain }], guard := none }) rfl (by kernel_rfl) (by kernel_rfl) (by kernel_rfl) (fun _ _ _ _ h => h) (by rfl) ?_
  apply Exists.intro
  refine ⟨fun w' hk => ?_, ?_⟩
  · go_simp <;> with_reducible rfl
  simp only [Act.put, List.setIfInBounds_toArray, List.set_cons_zero, List.set_cons_succ]
  refine anyTakeE (i := 38) (oi := { dst := some 91, op := Op.move (Operand.tmp 7), type := 22, pos := "law.go:53", after := #[{ on := 37, ground := Ground.guard }], guard := some (37, true) }) rfl (by kernel_rfl) (by kernel_rfl) (by kernel_rfl) (fun _ _ _ _ h => h) (by rfl) ?_
  apply Exists.intro
  refine ⟨fun w' hk => ?_, ?_⟩
  · go_simp <;> with_reducible rfl
  simp only [Act.put, List.setIfInBounds_toArray, List.set_cons_zero, List.set_cons_succ]
  refine anyCall (i := 39) (oi := { dst := some 92, op := Op.call { callee := Callee.value (Operand.func 15), args := #[Operand.tmp 91], argTypes := #[22] }, type := 3, pos := "law.go:53", after := #[{ on := 38, ground := Ground.data }, { on := 37, ground := Ground.chain }, { on := 37, ground := Ground.guard }], guard := some (37, true) }) rfl (by kernel_rfl) (by rfl) ?_ (((size_any HL14.out.d)).mono ?_)
  · go_simp
  rintro e15 w15 ⟨rfl, hw15⟩
  subst hw15
  refine ⟨_, rfl, Keeps.refl _ _, ?_⟩
  simp only [Act.put, List.setIfInBounds_toArray, List.set_cons_zero, List.set_cons_succ]
  refine anyTakeE (i := 40) (oi := { dst := some 93, op := Op.binOp BinOp.eql 3 (Operand.tmp 92) (Operand.const (Value.int IntKind.i64 1)) 3, type := 4, pos := "law.go:53", after := #[{ on := 39, ground := Ground.data }, { on := 37, ground := Ground.guard }], guard := some (37, true) }) rfl (by kernel_rfl) (by kernel_rfl) (by kernel_rfl) (fun _ _ _ _ h => h) (by rfl) ?_
  apply Exists.intro
  refine ⟨fun w' hk => ?_, ?_⟩
  · go_simp <;> with_reducible rfl
  simp only [Act.put, List.setIfInBounds_toArray, List.set_cons_zero, List.set_cons_succ]
  refine anyTakeE (i := 41) (oi := { dst := some 94, op := Op.pick (Operand.tmp 90) (Operand.tmp 93) (Operand.const (Value.bool false)), type := 4, pos := "law.go:53", after := #[{ on := 37, ground := Ground.data }, { on := 40, ground := Ground.data }], guard := none }) rfl (by kernel_rfl) (by kernel_rfl) (by kernel_rfl) (fun _ _ _ _ h => h) (by rfl) ?_
  apply Exists.intro
  refine ⟨fun w' hk => ?_, ?_⟩
  · go_simp <;> with_reducible rfl
  simp only [Act.put, List.setIfInBounds_toArray, List.set_cons_zero, List.set_cons_succ]
  refine anyTakeE (i := 42) (oi := { dst := some 95, op := Op.move (Operand.tmp 94), type := 4, pos := "law.go:53", after := #[{ on := 41, ground := Ground.data }, { on := 39, ground := Ground.chain }], guard := none }) rfl (by kernel_rfl) (by kernel_rfl) (by kernel_rfl) (fun _ _ _ _ h => h) (by rfl) ?_
  apply Exists.intro
  refine ⟨fun w' hk => ?_, ?_⟩
  · go_simp <;> with_reducible rfl
  simp only [Act.put, List.setIfInBounds_toArray, List.set_cons_zero, List.set_cons_succ]
  refine anyTakeE (i := 43) (oi := { dst := some 96, op := Op.move (Operand.tmp 15), type := 22, pos := "law.go:53", after := #[{ on := 42, ground := Ground.guard }], guard := some (42, true) }) rfl (by kernel_rfl) (by kernel_rfl) (by kernel_rfl) (fun _ _ _ _ h => h) (by rfl) ?_
  apply Exists.intro
  refine ⟨fun w' hk => ?_, ?_⟩
  · go_simp <;> with_reducible rfl
  simp only [Act.put, List.setIfInBounds_toArray, List.set_cons_zero, List.set_cons_succ]
  refine anyCall (i := 44) (oi := { dst := some 97, op := Op.call { callee := Callee.value (Operand.func 16), args := #[Operand.tmp 96], argTypes := #[22] }, type := 22, pos := "law.go:53", after := #[{ on := 43, ground := Ground.data }, { on := 42, ground := Ground.chain }, { on := 42, ground := Ground.guard }], guard := some (42, true) }) rfl (by kernel_rfl) (by rfl) ?_ (((clone_nil w15)).mono ?_)
  · go_simp
  rintro e16 w16 ⟨rfl, hw16⟩
  subst hw16
  refine ⟨_, rfl, Keeps.refl _ _, ?_⟩
  simp only [Act.put, List.setIfInBounds_toArray, List.set_cons_zero, List.set_cons_succ]
  refine anyTakeE (i := 45) (oi := { dst := some 98, op := Op.binOp BinOp.eql 22 (Operand.tmp 97) (Operand.const (Value.pointer none)) 22, type := 4, pos := "law.go:53", after := #[{ on := 44, ground := Ground.data }, { on := 42, ground := Ground.guard }], guard := some (42, true) }) rfl (by kernel_rfl) (by kernel_rfl) (by kernel_rfl) (fun _ _ _ _ h => h) (by rfl) ?_
  apply Exists.intro
  refine ⟨fun w' hk => ?_, ?_⟩
  · go_simp <;> with_reducible rfl
  simp only [Act.put, List.setIfInBounds_toArray, List.set_cons_zero, List.set_cons_succ]
  refine anyTakeE (i := 46) (oi := { dst := some 99, op := Op.pick (Operand.tmp 95) (Operand.tmp 98) (Operand.const (Value.bool false)), type := 4, pos := "law.go:53", after := #[{ on := 42, ground := Ground.data }, { on := 45, ground := Ground.data }], guard := none }) rfl (by kernel_rfl) (by kernel_rfl) (by kernel_rfl) (fun _ _ _ _ h => h) (by rfl) ?_
  apply Exists.intro
  refine ⟨fun w' hk => ?_, ?_⟩
  · go_simp <;> with_reducible rfl
  simp only [Act.put, List.setIfInBounds_toArray, List.set_cons_zero, List.set_cons_succ]
  refine anyTakeE (i := 47) (oi := { dst := some 100, op := Op.move (Operand.tmp 99), type := 4, pos := "law.go:53", after := #[{ on := 46, ground := Ground.data }, { on := 44, ground := Ground.chain }], guard := none }) rfl (by kernel_rfl) (by kernel_rfl) (by kernel_rfl) (fun _ _ _ _ h => h) (by rfl) ?_
  apply Exists.intro
  refine ⟨fun w' hk => ?_, ?_⟩
  · go_simp <;> with_reducible rfl
  simp only [Act.put, List.setIfInBounds_toArray, List.set_cons_zero, List.set_cons_succ]
  refine anyTakeE (i := 48) (oi := { dst := some 101, op := Op.move (Operand.tmp 15), type := 22, pos := "law.go:53", after := #[{ on := 47, ground := Ground.guard }], guard := some (47, true) }) rfl (by kernel_rfl) (by kernel_rfl) (by kernel_rfl) (fun _ _ _ _ h => h) (by rfl) ?_
  apply Exists.intro
  refine ⟨fun w' hk => ?_, ?_⟩
  · go_simp <;> with_reducible rfl
  simp only [Act.put, List.setIfInBounds_toArray, List.set_cons_zero, List.set_cons_succ]
  refine anyCall (i := 49) (oi := { dst := some 102, op := Op.call { callee := Callee.value (Operand.func 17), args := #[Operand.tmp 101], argTypes := #[22] }, type := 23, pos := "law.go:53", after := #[{ on := 48, ground := Ground.data }, { on := 47, ground := Ground.chain }, { on := 47, ground := Ground.guard }], guard := some (47, true) }) rfl (by kernel_rfl) (by rfl) ?_ (((flush_nil w16)).mono ?_)
  · go_simp
  rintro e17 w17 ⟨rfl, hw17⟩
  subst hw17
  refine ⟨_, rfl, Keeps.refl _ _, ?_⟩
  simp only [Act.put, List.setIfInBounds_toArray, List.set_cons_zero, List.set_cons_succ]
  refine anyTakeE (i := 50) (oi := { dst := some 103, op := Op.binOp BinOp.eql 23 (Operand.tmp 102) (Operand.const (Value.int IntKind.i64 1)) 23, type := 4, pos := "law.go:53", after := #[{ on := 49, ground := Ground.data }, { on := 47, ground := Ground.guard }], guard := some (47, true) }) rfl (by kernel_rfl) (by kernel_rfl) (by kernel_rfl) (fun _ _ _ _ h => h) (by rfl) ?_
  apply Exists.intro
  refine ⟨fun w' hk => ?_, ?_⟩
  · go_simp <;> with_reducible rfl
  simp only [Act.put, List.setIfInBounds_toArray, List.set_cons_zero, List.set_cons_succ]
  refine anyTakeE (i := 51) (oi := { dst := some 104, op := Op.pick (Operand.tmp 100) (Operand.tmp 103) (Operand.const (Value.bool false)), type := 4, pos := "law.go:53", after := #[{ on := 47, ground := Ground.data }, { on := 50, ground := Ground.data }], guard := none }) rfl (by kernel_rfl) (by kernel_rfl) (by kernel_rfl) (fun _ _ _ _ h => h) (by rfl) ?_
  apply Exists.intro
  refine ⟨fun w' hk => ?_, ?_⟩
  · go_simp <;> with_reducible rfl
  simp only [Act.put, List.setIfInBounds_toArray, List.set_cons_zero, List.set_cons_succ]
  refine anyTakeE (i := 52) (oi := { dst := some 105, op := Op.move (Operand.tmp 104), type := 4, pos := "law.go:53", after := #[{ on := 51, ground := Ground.data }, { on := 49, ground := Ground.chain }], guard := none }) rfl (by kernel_rfl) (by kernel_rfl) (by kernel_rfl) (fun _ _ _ _ h => h) (by rfl) ?_
  apply Exists.intro
  refine ⟨fun w' hk => ?_, ?_⟩
  · go_simp <;> with_reducible rfl
  simp only [Act.put, List.setIfInBounds_toArray, List.set_cons_zero, List.set_cons_succ]
  refine anyTakeE (i := 53) (oi := { dst := some 106, op := Op.pick (Operand.tmp 105) (Operand.const (Value.bool true)) (Operand.const (Value.bool false)), type := 4, pos := "law.go:53", after := #[{ on := 52, ground := Ground.data }], guard := none }) rfl (by kernel_rfl) (by kernel_rfl) (by kernel_rfl) (fun _ _ _ _ h => h) (by rfl) ?_
  apply Exists.intro
  refine ⟨fun w' hk => ?_, ?_⟩
  · go_simp <;> with_reducible rfl
  simp only [Act.put, List.setIfInBounds_toArray, List.set_cons_zero, List.set_cons_succ]
  refine anyTakeE (i := 54) (oi := { dst := some 0, op := Op.assign (Operand.tmp 106), type := 4, pos := "law.go:53", after := #[{ on := 53, ground := Ground.data }, { on := 52, ground := Ground.chain }, { on := 0, ground := Ground.phase }, { on := 1, ground := Ground.phase }, { on := 2, ground := Ground.phase }, { on := 3, ground := Ground.phase }, { on := 4, ground := Ground.phase }, { on := 5, ground := Ground.phase }, { on := 6, ground := Ground.phase }, { on := 7, ground := Ground.phase }, { on := 8, ground := Ground.phase }, { on := 9, ground := Ground.phase }, { on := 10, ground := Ground.phase }, { on := 11, ground := Ground.phase }, { on := 12, ground := Ground.phase }, { on := 13, ground := Ground.phase }, { on := 14, ground := Ground.phase }, { on := 15, ground := Ground.phase }, { on := 16, ground := Ground.phase }, { on := 17, ground := Ground.phase }, { on := 18, ground := Ground.phase }, { on := 19, ground := Ground.phase }, { on := 20, ground := Ground.phase }, { on := 21, ground := Ground.phase }, { on := 22, ground := Ground.phase }, { on := 23, ground := Ground.phase }, { on := 24, ground := Ground.phase }, { on := 25, ground := Ground.phase }, { on := 26, ground := Ground.phase }, { on := 27, ground := Ground.phase }, { on := 28, ground := Ground.phase }, { on := 29, ground := Ground.phase }, { on := 30, ground := Ground.phase }, { on := 31, ground := Ground.phase }, { on := 32, ground := Ground.phase }, { on := 33, ground := Ground.phase }, { on := 34, ground := Ground.phase }, { on := 35, ground := Ground.phase }, { on := 36, ground := Ground.phase }, { on := 37, ground := Ground.phase }, { on := 38, ground := Ground.phase }, { on := 39, ground := Ground.phase }, { on := 40, ground := Ground.phase }, { on := 41, ground := Ground.phase }, { on := 42, ground := Ground.phase }, { on := 43, ground := Ground.phase }, { on := 44, ground := Ground.phase }, { on := 45, ground := Ground.phase }, { on := 46, ground := Ground.phase }, { on := 47, ground := Ground.phase }, { on := 48, ground := Ground.phase }, { on := 49, ground := Ground.phase }, { on := 50, ground := Ground.phase }, { on := 51, ground := Ground.phase }, { on := 52, ground := Ground.phase }, { on := 53, ground := Ground.phase }], guard := none }) rfl (by kernel_rfl) (by kernel_rfl) (by kernel_rfl) (fun _ _ _ _ h => h) (by rfl) ?_
  apply Exists.intro
  refine ⟨fun w' hk => ?_, ?_⟩
  · go_simp <;> with_reducible rfl
  simp only [Act.put, List.setIfInBounds_toArray, List.set_cons_zero, List.set_cons_succ]
  refine anyDone (by kernel_rfl) ?_ _
  go_wp2
  go_ret
  exact ⟨rfl, HL14.out.b⟩

set_option maxRecDepth 100000 in
theorem lifted (os : Os) (started : os.Started) (H : Type) (enc : TypeId × Value → H) :
    ReturnsInHanded {} Try.checked os 3 .any (Rows.diskNamesSpec.pre6 enc Try.prog Try.f3 Rows.diskNamesRow.domain false) (Rows.diskNamesSpec.post enc Try.prog Try.f3 false true false false) := by
  refine returnsInHanded_of_change (C := Try.checked) own started (by kernel_rfl) Try.func3
    (ChangeSpec.witness6 (enc := enc) (C := Try.checked) false ⟨#[], #[], []⟩ 8 (by kernel_rfl) (by kernel_rfl) (by kernel_rfl) (by kernel_rfl)) ?_
  intro W base args ds gs before hval0 hW hcnd _
  have hval : ∀ (j : Nat) t v, Try.f3.params[j]? = some t → args[j]? = some v → Value.okWide Try.prog W .any base t v := hval0
  have hW' := hW
  obtain ⟨p, q, hA0, hV, rfl, hfz, hnd⟩ := hW
  have hA : DataW.TrodAll enc Try.prog W 0 (fun _ => true) true Try.f3.params.toList args.toList ds p := hA0
  rw [Try.params3] at hA hval
  obtain ⟨hargs, rfl, rfl⟩ := trodAll_nil hA
  obtain rfl : args = #[] := by cases args; simp_all
  obtain ⟨rfl, rfl⟩ := trodVars_none hV
  clear hA0 hval0
  refine (walk W).mono fun e W' ⟨he, bel⟩ => ?_
  subst he
  exact ⟨_, rfl, _, _, _, [], _, [], hW', trodAll_mk1 (shut_bool Try.underlying4 _), trodAll_mk0, rfl, bel.frame _, fun h => by cases h⟩

theorem over : Rows.diskNamesRow.holds Try.pinned (OpenSpec.ofChange Rows.diskNamesSpec) :=
  OpenClaim.holds_of_wide 3 Try.f3 rfl rfl rfl rfl rfl rfl rfl ⟨rfl, rfl, rfl, rfl, rfl⟩ rfl rfl rfl rfl rfl (by kernel_rfl) Try.func3 (by kernel_rfl)
    (of_decide_eq_true (by kernel_rfl)) (by unfold Func.isWrapper; first | (rw [if_pos (by decide +kernel)]; kernel_rfl) | (rw [if_neg (by decide +kernel)]; exact ⟨rfl, rfl⟩))
    (fun os started H enc _ => lifted os started H enc)

/-- The statement. -/
theorem proved : Rows.DiskNamesSaid := over
#print axioms proved
end Go.Proofs.Ytfhjcfoecmbhkaa.diskNames
