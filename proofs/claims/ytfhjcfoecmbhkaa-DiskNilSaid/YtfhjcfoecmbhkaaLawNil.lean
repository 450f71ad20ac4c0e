/- It is proved that DiskNil returns true for every call: the functions of a disk that is nil return ErrNil, or nothing. Conditions: none. -/
import Derived.Test.YtfhjcfoecmbhkaaRows
import Derived.Test.YtfhjcfoecmbhkaaLF
import Derived.ProofKit
import Derived.OpenShut
import Derived.ChangeOld
namespace Go.Proofs.Ytfhjcfoecmbhkaa.diskNil
open Go.ChangeShapes Go.WideShapes Go.ChangeAt Go.RowKit
set_option linter.unusedVariables false
set_option linter.unusedSimpArgs false

theorem own : ownKnob Try.prog.godebug = none := by kernel_rfl
theorem laidOut : laidOutB Try.prog = true := by kernel_rfl

set_option maxRecDepth 100000 in
set_option maxHeartbeats 2000000 in
theorem walk (v : ActV) (w : World) (hv : v.Ok w) :
    Calls Try.prog 5 #[.agg v.cells.toArray] w fun e w' => e = .returned (.bool true) ∧ Below w.heap.size w w' := by
  have HV := Lib.hid hv
  clear hv
  go_enter Try.func5, Try.ntmps5
  go_wp2_with ((with_reducible show wpList _ _ _ (⟨some 1, .box 46 _, _, _, _, _⟩ :: _) _ _); go_must (refine wpList_box46 rfl _ rfl v rfl ?_; intro w1 hh1 hz1 hg1; have HX1 := Lib.hid (Bx.of hh1); have HB1 := Lib.hid (below_of_grownBy hg1); have HZ1 := Lib.hid hz1; clear hh1 hg1 hz1))
  refine (lives_any w1).mono ?_
  rintro e2 w2 ⟨rfl, hb2⟩
  have HB2 := Lib.hid (HB1.out.trans (hb2.mono HB1.out.size))
  have HX2 := Lib.hid (HX1.out.keeps (Keeps.of_below (G := fun _ => False) hb2) (by have := HZ1.out; omega) id)
  have HZ2 : Hid (w.heap.size < w2.heap.size) := Lib.hid (by have := HZ1.out; have := hb2.size; omega)
  clear hb2 HB1 HX1 HZ1
  go_wp2_with (first | ((with_reducible show wpList _ _ _ (⟨some 8, .load 46 _, _, _, _, _⟩ :: _) _ _); go_must (refine wpList_load46 rfl _ rfl w.heap.size 0 rfl v HX2.out.loads ?_)) | ((with_reducible show wpList _ _ _ (⟨some 9, .buildSlice 38 1 _, _, _, _, _⟩ :: _) _ _); go_must (refine wpList_build38 rfl _ rfl v rfl ?_; intro w3 hh3 hz3 hg3; have HB3 := Lib.hid (below_of_grownBy hg3); have HH3 := Lib.hid hh3; have HZ3 := Lib.hid hz3; clear hh3 hz3 hg3)))
  have HX3 := Lib.hid (HX2.out.keeps (Keeps.of_below (G := fun _ => False) HB3.out) HZ2.out id)
  have HBB := Lib.hid (HB2.out.trans (HB3.out.mono HB2.out.size))
  refine (small_any w3 _ 1 1 [v] (acts_one HH3.out (HV.out.below HBB.out))).mono ?_
  rintro e4 w4 ⟨r, rfl, hw4, -⟩
  subst hw4
  clear HX2 HB2 HB3 HH3
  have c1 := HX3.out.c1
  have c4 := HX3.out.c4
  have HZ4 : Hid (w.heap.size < w4.heap.size) := Lib.hid (by have := HZ2.out; have := HZ3.out; omega)
  cases r
  · go_wp2
    go_ret
    exact ⟨rfl, HBB.out⟩
  · go_wp2_with (first | (go_at_call 11; refine (read_nil _ _).mono ?_; rintro e5 w5 ⟨rfl, hw5⟩; subst hw5) | ((with_reducible show wpList _ _ _ (⟨some 25, .load 46 _, _, _, _, _⟩ :: _) _ _); go_must (refine wpList_load46 rfl _ rfl w.heap.size 0 rfl v HX3.out.loads ?_)))
    refine anyStart (fun _ => False) (by kernel_rfl) ?_
    refine anyTakeE (i := 0) (oi := { dst := some 19, op := Op.move (Operand.tmp 5), type := 23, pos := "law.go:133", after := #[], guard := none }) rfl (by kernel_rfl) (by kernel_rfl) (by kernel_rfl) (fun _ _ _ _ h => h) (by rfl) ?_
    apply Exists.intro
    refine ⟨fun w' hk => ?_, ?_⟩
    · go_simp <;> with_reducible rfl
    simp only [Act.put, List.setIfInBounds_toArray, List.set_cons_zero, List.set_cons_succ]
    refine anyTakeE (i := 1) (oi := { dst := some 20, op := Op.binOp BinOp.eql 23 (Operand.tmp 19) (Operand.const (Value.int IntKind.i64 1)) 23, type := 4, pos := "law.go:133", after := #[{ on := 0, ground := Ground.data }], guard := none }) rfl (by kernel_rfl) (by kernel_rfl) (by kernel_rfl) (fun _ _ _ _ h => h) (by rfl) ?_
    apply Exists.intro
    refine ⟨fun w' hk => ?_, ?_⟩
    · go_simp <;> with_reducible rfl
    simp only [Act.put, List.setIfInBounds_toArray, List.set_cons_zero, List.set_cons_succ]
    refine anyTakeE (i := 2) (oi := { dst := some 21, op := Op.move (Operand.tmp 20), type := 4, pos := "law.go:133", after := #[{ on := 1, ground := Ground.data }], guard := none }) rfl (by kernel_rfl) (by kernel_rfl) (by kernel_rfl) (fun _ _ _ _ h => h) (by rfl) ?_
    apply Exists.intro
    refine ⟨fun w' hk => ?_, ?_⟩
    · go_simp <;> with_reducible rfl
    simp only [Act.put, List.setIfInBounds_toArray, List.set_cons_zero, List.set_cons_succ]
    refine anyTakeE (i := 3) (oi := { dst := some 22, op := Op.move (Operand.tmp 3), type := 22, pos := "law.go:133", after := #[{ on := 2, ground := Ground.guard }], guard := some (2, true) }) rfl (by kernel_rfl) (by kernel_rfl) (by kernel_rfl) (fun _ _ _ _ h => h) (by rfl) ?_
    apply Exists.intro
    refine ⟨fun w' hk => ?_, ?_⟩
    · go_simp <;> with_reducible rfl
    simp only [Act.put, List.setIfInBounds_toArray, List.set_cons_zero, List.set_cons_succ]
    refine anyTakeE (i := 4) (oi := { dst := some 23, op := Op.fieldAddr 46 (Operand.tmp 1) 1, type := 0, pos := "law.go:133", after := #[{ on := 2, ground := Ground.guard }], guard := some (2, true) }) rfl (by kernel_rfl) (by kernel_rfl) (by kernel_rfl) (fun _ _ _ _ h => h) (by rfl) ?_
    apply Exists.intro
    refine ⟨fun w' hk => ?_, ?_⟩
    · go_simp <;> with_reducible rfl
    simp only [Act.put, List.setIfInBounds_toArray, List.set_cons_zero, List.set_cons_succ]
    refine anyTakeE (i := 5) (oi := { dst := some 24, op := Op.load 3 (Operand.tmp 23), type := 3, pos := "law.go:133", after := #[{ on := 4, ground := Ground.data }, { on := 2, ground := Ground.guard }], guard := some (2, true) }) rfl (by kernel_rfl) (by kernel_rfl) (by kernel_rfl) (fun _ _ _ _ h => h) (by rfl) ?_
    apply Exists.intro
    refine ⟨fun w' hk => ?_, ?_⟩
    · have c9 := (HX3.out.keeps ((Keeps.drew _ w5).trans hk) (by have := HZ4.out; omega) id).c1; go_simp <;> with_reducible rfl
    simp only [Act.put, List.setIfInBounds_toArray, List.set_cons_zero, List.set_cons_succ]
    refine anyTake (i := 6) (oi := { dst := some 25, op := Op.load 46 (Operand.tmp 1), type := 46, pos := "law.go:133", after := #[{ on := 2, ground := Ground.guard }], guard := some (2, true) }) rfl (by kernel_rfl) (by kernel_rfl) (by kernel_rfl) (fun _ _ _ h => h) (by rfl) (fun w' hk => exec_load 46 (.tmp 1) rfl w.heap.size 0 rfl v.cells (HX3.out.keeps ((Keeps.drew _ w5).trans hk) (by have := HZ4.out; omega) id).loads _ Try.underlying46 rfl (by rw [size46]; rfl)) ?_
    simp only [Act.put, List.setIfInBounds_toArray, List.set_cons_zero, List.set_cons_succ]
    refine anyCall (i := 7) (oi := { dst := some 26, op := Op.call { callee := Callee.value (Operand.func 25), args := #[Operand.tmp 25], argTypes := #[46] }, type := 27, pos := "law.go:133", after := #[{ on := 6, ground := Ground.data }, { on := 2, ground := Ground.chain }, { on := 2, ground := Ground.guard }], guard := some (2, true) }) rfl (by kernel_rfl) (by rfl) ?_ (((bytes_any w5.drew v)).mono ?_)
    · go_simp
    rintro e6 w6 ⟨u6, rfl, ho6, hb6⟩
    obtain ⟨A6, c6, rfl, -⟩ := own_src ho6
    have HB6 := Lib.hid (HBB.out.trans (Below.mono (⟨hb6.os, hb6.tape, hb6.output, hb6.size, hb6.block⟩ : Below w5.heap.size w5 w6) HBB.out.size))
    have HX6 := Lib.hid (HX3.out.keeps (G := fun _ => False) ((Keeps.drew _ w5).trans (Keeps.of_below hb6)) HZ4.out id)
    have HZ6 : Hid (w.heap.size < w6.heap.size) := Lib.hid (by have := HZ4.out; have := hb6.size; have h9 : w5.drew.heap.size = w5.heap.size := rfl; omega)
    clear ho6
    refine ⟨_, rfl, Keeps.of_below hb6, ?_⟩
    simp only [Act.put, List.setIfInBounds_toArray, List.set_cons_zero, List.set_cons_succ]
    refine anyCall (i := 8) (oi := { dst := some 27, op := Op.call { callee := Callee.value (Operand.func 12), args := #[Operand.tmp 22, Operand.tmp 24, Operand.tmp 26], argTypes := #[22, 3, 27] }, type := 23, pos := "law.go:133", after := #[{ on := 3, ground := Ground.data }, { on := 5, ground := Ground.data }, { on := 7, ground := Ground.data }, { on := 7, ground := Ground.chain }, { on := 2, ground := Ground.guard }], guard := some (2, true) }) rfl (by kernel_rfl) (by rfl) ?_ (((write_nil w6 v.at_ A6 (actB v.b v.long).length c6)).mono ?_)
    · go_simp
    rintro e7 w7 ⟨rfl, hw7⟩
    subst hw7
    refine ⟨_, rfl, Keeps.refl _ _, ?_⟩
    simp only [Act.put, List.setIfInBounds_toArray, List.set_cons_zero, List.set_cons_succ]
    refine anyTakeE (i := 9) (oi := { dst := some 28, op := Op.binOp BinOp.eql 23 (Operand.tmp 27) (Operand.const (Value.int IntKind.i64 1)) 23, type := 4, pos := "law.go:133", after := #[{ on := 8, ground := Ground.data }, { on := 2, ground := Ground.guard }], guard := some (2, true) }) rfl (by kernel_rfl) (by kernel_rfl) (by kernel_rfl) (fun _ _ _ _ h => h) (by rfl) ?_
    apply Exists.intro
    refine ⟨fun w' hk => ?_, ?_⟩
    · go_simp <;> with_reducible rfl
    simp only [Act.put, List.setIfInBounds_toArray, List.set_cons_zero, List.set_cons_succ]
    refine anyTakeE (i := 10) (oi := { dst := some 29, op := Op.pick (Operand.tmp 21) (Operand.tmp 28) (Operand.const (Value.bool false)), type := 4, pos := "law.go:133", after := #[{ on := 2, ground := Ground.data }, { on := 9, ground := Ground.data }], guard := none }) rfl (by kernel_rfl) (by kernel_rfl) (by kernel_rfl) (fun _ _ _ _ h => h) (by rfl) ?_
    apply Exists.intro
    refine ⟨fun w' hk => ?_, ?_⟩
    · go_simp <;> with_reducible rfl
    simp only [Act.put, List.setIfInBounds_toArray, List.set_cons_zero, List.set_cons_succ]
    refine anyTakeE (i := 11) (oi := { dst := some 30, op := Op.move (Operand.tmp 29), type := 4, pos := "law.go:133", after := #[{ on := 10, ground := Ground.data }, { on := 8, ground := Ground.chain }], guard := none }) rfl (by kernel_rfl) (by kernel_rfl) (by kernel_rfl) (fun _ _ _ _ h => h) (by rfl) ?_
    apply Exists.intro
    refine ⟨fun w' hk => ?_, ?_⟩
    · go_simp <;> with_reducible rfl
    simp only [Act.put, List.setIfInBounds_toArray, List.set_cons_zero, List.set_cons_succ]
    refine anyTakeE (i := 12) (oi := { dst := some 31, op := Op.move (Operand.tmp 3), type := 22, pos := "law.go:133", after := #[{ on := 11, ground := Ground.guard }], guard := some (11, true) }) rfl (by kernel_rfl) (by kernel_rfl) (by kernel_rfl) (fun _ _ _ _ h => h) (by rfl) ?_
    apply Exists.intro
    refine ⟨fun w' hk => ?_, ?_⟩
    · go_simp <;> with_reducible rfl
    simp only [Act.put, List.setIfInBounds_toArray, List.set_cons_zero, List.set_cons_succ]
    refine anyCall (i := 13) (oi := { dst := some 32, op := Op.call { callee := Callee.value (Operand.func 17), args := #[Operand.tmp 31], argTypes := #[22] }, type := 23, pos := "law.go:133", after := #[{ on := 12, ground := Ground.data }, { on := 11, ground := Ground.chain }, { on := 11, ground := Ground.guard }], guard := some (11, true) }) rfl (by kernel_rfl) (by rfl) ?_ (((flush_nil w7)).mono ?_)
    · go_simp
    rintro e8 w8 ⟨rfl, hw8⟩
    subst hw8
    refine ⟨_, rfl, Keeps.refl _ _, ?_⟩
    simp only [Act.put, List.setIfInBounds_toArray, List.set_cons_zero, List.set_cons_succ]
    refine anyTakeE (i := 14) (oi := { dst := some 33, op := Op.binOp BinOp.eql 23 (Operand.tmp 32) (Operand.const (Value.int IntKind.i64 1)) 23, type := 4, pos := "law.go:133", after := #[{ on := 13, ground := Ground.data }, { on := 11, ground := Ground.guard }], guard := some (11, true) }) rfl (by kernel_rfl) (by kernel_rfl) (by kernel_rfl) (fun _ _ _ _ h => h) (by rfl) ?_
    apply Exists.intro
    refine ⟨fun w' hk => ?_, ?_⟩
    · go_simp <;> with_reducible rfl
    simp only [Act.put, List.setIfInBounds_toArray, List.set_cons_zero, List.set_cons_succ]
    refine anyTakeE (i := 15) (oi := { dst := some 34, op := Op.pick (Operand.tmp 30) (Operand.tmp 33) (Operand.const (Value.bool false)), type := 4, pos := "law.go:133", after := #[{ on := 11, ground := Ground.data }, { on := 14, ground := Ground.data }], guard := none }) rfl (by kernel_rfl) (by kernel_rfl) (by kernel_rfl) (fun _ _ _ _ h => h) (by rfl) ?_
    apply Exists.intro
    refine ⟨fun w' hk => ?_, ?_⟩
    · go_simp <;> with_reducible rfl
    simp only [Act.put, List.setIfInBounds_toArray, List.set_cons_zero, List.set_cons_succ]
    refine anyTakeE (i := 16) (oi := { dst := some 35, op := Op.move (Operand.tmp 34), type := 4, pos := "law.go:133", after := #[{ on := 15, ground := Ground.data }, { on := 13, ground := Ground.chain }], guard := none }) rfl (by kernel_rfl) (by kernel_rfl) (by kernel_rfl) (fun _ _ _ _ h => h) (by rfl) ?_
    apply Exists.intro
    refine ⟨fun w' hk => ?_, ?_⟩
    · go_simp <;> with_reducible rfl
    simp only [Act.put, List.setIfInBounds_toArray, List.set_cons_zero, List.set_cons_succ]
    refine anyTakeE (i := 17) (oi := { dst := some 36, op := Op.move (Operand.tmp 3), type := 22, pos := "law.go:133", after := #[{ on := 16, ground := Ground.guard }], guard := some (16, true) }) rfl (by kernel_rfl) (by kernel_rfl) (by kernel_rfl) (fun _ _ _ _ h => h) (by rfl) ?_
    apply Exists.intro
    refine ⟨fun w' hk => ?_, ?_⟩
    · go_simp <;> with_reducible rfl
    simp only [Act.put, List.setIfInBounds_toArray, List.set_cons_zero, List.set_cons_succ]
    refine anyTakeE (i := 18) (oi := { dst := some 37, op := Op.fieldAddr 46 (Operand.tmp 1) 4, type := 0, pos := "law.go:133", after := #[{ on := 16, ground := Ground.guard }], guard := some (16, true) }) rfl (by kernel_rfl) (by kernel_rfl) (by kernel_rfl) (fun _ _ _ _ h => h) (by rfl) ?_
    apply Exists.intro
    refine ⟨fun w' hk => ?_, ?_⟩
    · go_simp <;> with_reducible rfl
    simp only [Act.put, List.setIfInBounds_toArray, List.set_cons_zero, List.set_cons_succ]
    refine anyTakeE (i := 19) (oi := { dst := some 38, op := Op.load 44 (Operand.tmp 37), type := 44, pos := "law.go:133", after := #[{ on := 18, ground := Ground.data }, { on := 16, ground := Ground.guard }], guard := some (16, true) }) rfl (by kernel_rfl) (by kernel_rfl) (by kernel_rfl) (fun _ _ _ _ h => h) (by rfl) ?_
    apply Exists.intro
    refine ⟨fun w' hk => ?_, ?_⟩
    · have c9 := (HX6.out.keeps hk HZ6.out id).c4; go_simp <;> with_reducible rfl
    simp only [Act.put, List.setIfInBounds_toArray, List.set_cons_zero, List.set_cons_succ]
    refine anyCall (i := 20) (oi := { dst := some 39, op := Op.call { callee := Callee.value (Operand.func 23), args := #[Operand.tmp 36, Operand.tmp 38], argTypes := #[22, 44] }, type := 23, pos := "law.go:133", after := #[{ on := 17, ground := Ground.data }, { on := 19, ground := Ground.data }, { on := 16, ground := Ground.chain }, { on := 16, ground := Ground.guard }], guard := some (16, true) }) rfl (by kernel_rfl) (by rfl) ?_ (((crash_nil w8 v.A v.kn v.kc)).mono ?_)
    · go_simp
    rintro e9 w9 ⟨rfl, hb9⟩
    have HB9 := Lib.hid (HB6.out.trans (hb9.mono HB6.out.size))
    refine ⟨_, rfl, Keeps.of_below hb9, ?_⟩
    simp only [Act.put, List.setIfInBounds_toArray, List.set_cons_zero, List.set_cons_succ]
    refine anyTakeE (i := 21) (oi := { dst := some 40, op := Op.binOp BinOp.eql 23 (Operand.tmp 39) (Operand.const (Value.int IntKind.i64 1)) 23, type := 4, pos := "law.go:133", after := #[{ on := 20, ground := Ground.data }, { on := 16, ground := Ground.guard }], guard := some (16, true) }) rfl (by kernel_rfl) (by kernel_rfl) (by kernel_rfl) (fun _ _ _ _ h => h) (by rfl) ?_
    apply Exists.intro
    refine ⟨fun w' hk => ?_, ?_⟩
    · go_simp <;> with_reducible rfl
    simp only [Act.put, List.setIfInBounds_toArray, List.set_cons_zero, List.set_cons_succ]
    refine anyTakeE (i := 22) (oi := { dst := some 41, op := Op.pick (Operand.tmp 35) (Operand.tmp 40) (Operand.const (Value.bool false)), type := 4, pos := "law.go:133", after := #[{ on := 16, ground := Ground.data }, { on := 21, ground := Ground.data }], guard := none }) rfl (by kernel_rfl) (by kernel_rfl) (by kernel_rfl) (fun _ _ _ _ h => h) (by rfl) ?_
    apply Exists.intro
    refine ⟨fun w' hk => ?_, ?_⟩
    · go_simp <;> with_reducible rfl
    simp only [Act.put, List.setIfInBounds_toArray, List.set_cons_zero, List.set_cons_succ]
    refine anyTakeE (i := 23) (oi := { dst := some 42, op := Op.move (Operand.tmp 41), type := 4, pos := "law.go:133", after := #[{ on := 22, ground := Ground.data }, { on := 20, ground := Ground.chain }], guard := none }) rfl (by kernel_rfl) (by kernel_rfl) (by kernel_rfl) (fun _ _ _ _ h => h) (by rfl) ?_
    apply Exists.intro
    refine ⟨fun w' hk => ?_, ?_⟩
    · go_simp <;> with_reducible rfl
    simp only [Act.put, List.setIfInBounds_toArray, List.set_cons_zero, List.set_cons_succ]
    refine anyTakeE (i := 24) (oi := { dst := some 43, op := Op.move (Operand.tmp 3), type := 22, pos := "law.go:133", after := #[{ on := 23, ground := Ground.guard }], guard := some (23, true) }) rfl (by kernel_rfl) (by kernel_rfl) (by kernel_rfl) (fun _ _ _ _ h => h) (by rfl) ?_
    apply Exists.intro
    refine ⟨fun w' hk => ?_, ?_⟩
    · go_simp <;> with_reducible rfl
    simp only [Act.put, List.setIfInBounds_toArray, List.set_cons_zero, List.set_cons_succ]
    refine anyCall (i := 25) (oi := { dst := some 44, op := Op.call { callee := Callee.value (Operand.func 13), args := #[Operand.tmp 43], argTypes := #[22] }, type := 32, pos := "law.go:133", after := #[{ on := 24, ground := Ground.data }, { on := 23, ground := Ground.chain }, { on := 23, ground := Ground.guard }], guard := some (23, true) }) rfl (by kernel_rfl) (by rfl) ?_ (((cached_nil w9)).mono ?_)
    · go_simp
    rintro e10 w10 ⟨rfl, hw10⟩
    subst hw10
    refine ⟨_, rfl, Keeps.refl _ _, ?_⟩
    simp only [Act.put, List.setIfInBounds_toArray, List.set_cons_zero, List.set_cons_succ]
    refine anyTakeE (i := 26) (oi := { dst := some 45, op := Op.call { callee := Callee.builtin Builtin.len, args := #[Operand.tmp 44], argTypes := #[32] }, type := 3, pos := "law.go:133", after := #[{ on := 25, ground := Ground.data }, { on := 23, ground := Ground.guard }], guard := some (23, true) }) rfl (by kernel_rfl) (by kernel_rfl) (by kernel_rfl) (fun _ _ _ _ h => h) (by rfl) ?_
    apply Exists.intro
    refine ⟨fun w' hk => ?_, ?_⟩
    · go_simp <;> with_reducible rfl
    simp only [Act.put, List.setIfInBounds_toArray, List.set_cons_zero, List.set_cons_succ]
    refine anyTakeE (i := 27) (oi := { dst := some 46, op := Op.binOp BinOp.eql 3 (Operand.tmp 45) (Operand.const (Value.int IntKind.i64 0)) 3, type := 4, pos := "law.go:133", after := #[{ on := 26, ground := Ground.data }, { on := 23, ground := Ground.guard }], guard := some (23, true) }) rfl (by kernel_rfl) (by kernel_rfl) (by kernel_rfl) (fun _ _ _ _ h => h) (by rfl) ?_
    apply Exists.intro
    refine ⟨fun w' hk => ?_, ?_⟩
    · go_simp <;> with_reducible rfl
    simp only [Act.put, List.setIfInBounds_toArray, List.set_cons_zero, List.set_cons_succ]
    refine anyTakeE (i := 28) (oi := { dst := some 47, op := Op.pick (Operand.tmp 42) (Operand.tmp 46) (Operand.const (Value.bool false)), type := 4, pos := "law.go:133", after := #[{ on := 23, ground := Ground.data }, { on := 27, ground := Ground.data }], guard := none }) rfl (by kernel_rfl) (by kernel_rfl) (by kernel_rfl) (fun _ _ _ _ h => h) (by rfl) ?_
    apply Exists.intro
    refine ⟨fun w' hk => ?_, ?_⟩
    · go_simp <;> with_reducible rfl
    simp only [Act.put, List.setIfInBounds_toArray, List.set_cons_zero, List.set_cons_succ]
    refine anyTakeE (i := 29) (oi := { dst := some 48, op := Op.move (Operand.tmp 47), type := 4, pos := "law.go:133", after := #[{ on := 28, ground := Ground.data }, { on := 25, ground := Ground.chain }], guard := none }) rfl (by kernel_rfl) (by kernel_rfl) (by kernel_rfl) (fun _ _ _ _ h => h) (by rfl) ?_
    apply Exists.intro
    refine ⟨fun w' hk => ?_, ?_⟩
    · go_simp <;> with_reducible rfl
    simp only [Act.put, List.setIfInBounds_toArray, List.set_cons_zero, List.set_cons_succ]
    refine anyTakeE (i := 30) (oi := { dst := some 49, op := Op.move (Operand.tmp 3), type := 22, pos := "law.go:133", after := #[{ on := 29, ground := Ground.guard }], guard := some (29, true) }) rfl (by kernel_rfl) (by kernel_rfl) (by kernel_rfl) (fun _ _ _ _ h => h) (by rfl) ?_
    apply Exists.intro
    refine ⟨fun w' hk => ?_, ?_⟩
    · go_simp <;> with_reducible rfl
    simp only [Act.put, List.setIfInBounds_toArray, List.set_cons_zero, List.set_cons_succ]
    refine anyCall (i := 31) (oi := { dst := some 50, op := Op.call { callee := Callee.value (Operand.func 15), args := #[Operand.tmp 49], argTypes := #[22] }, type := 3, pos := "law.go:133", after := #[{ on := 30, ground := Ground.data }, { on := 29, ground := Ground.chain }, { on := 29, ground := Ground.guard }], guard := some (29, true) }) rfl (by kernel_rfl) (by rfl) ?_ (((size_nil w10)).mono ?_)
    · go_simp
    rintro e11 w11 ⟨rfl, hw11⟩
    subst hw11
    refine ⟨_, rfl, Keeps.refl _ _, ?_⟩
    simp only [Act.put, List.setIfInBounds_toArray, List.set_cons_zero, List.set_cons_succ]
    refine anyTakeE (i := 32) (oi := { dst := some 51, op := Op.binOp BinOp.eql 3 (Operand.tmp 50) (Operand.const (Value.int IntKind.i64 0)) 3, type := 4, pos := "law.go:133", after := #[{ on := 31, ground := Ground.data }, { on := 29, ground := Ground.guard }], guard := some (29, true) }) rfl (by kernel_rfl) (by kernel_rfl) (by kernel_rfl) (fun _ _ _ _ h => h) (by rfl) ?_
    apply Exists.intro
    refine ⟨fun w' hk => ?_, ?_⟩
    · go_simp <;> with_reducible rfl
    simp only [Act.put, List.setIfInBounds_toArray, List.set_cons_zero, List.set_cons_succ]
    refine anyTakeE (i := 33) (oi := { dst := some 52, op := Op.pick (Operand.tmp 48) (Operand.tmp 51) (Operand.const (Value.bool false)), type := 4, pos := "law.go:133", after := #[{ on := 29, ground := Ground.data }, { on := 32, ground := Ground.data }], guard := none }) rfl (by kernel_rfl) (by kernel_rfl) (by kernel_rfl) (fun _ _ _ _ h => h) (by rfl) ?_
    apply Exists.intro
    refine ⟨fun w' hk => ?_, ?_⟩
    · go_simp <;> with_reducible rfl
    simp only [Act.put, List.setIfInBounds_toArray, List.set_cons_zero, List.set_cons_succ]
    refine anyTakeE (i := 34) (oi := { dst := some 53, op := Op.move (Operand.tmp 52), type := 4, pos := "law.go:133", after := #[{ on := 33, ground := Ground.data }, { on := 31, ground := Ground.chain }], guard := none }) rfl (by kernel_rfl) (by kernel_rfl) (by kernel_rfl) (fun _ _ _ _ h => h) (by rfl) ?_
    apply Exists.intro
    refine ⟨fun w' hk => ?_, ?_⟩
    · go_simp <;> with_reducible rfl
    simp only [Act.put, List.setIfInBounds_toArray, List.set_cons_zero, List.set_cons_succ]
    refine anyTakeE (i := 35) (oi := { dst := some 54, op := Op.move (Operand.tmp 3), type := 22, pos := "law.go:133", after := #[{ on := 34, ground := Ground.guard }], guard := some (34, true) }) rfl (by kernel_rfl) (by kernel_rfl) (by kernel_rfl) (fun _ _ _ _ h => h) (by rfl) ?_
    apply Exists.intro
    refine ⟨fun w' hk => ?_, ?_⟩
    · go_simp <;> with_reducible rfl
    simp only [Act.put, List.setIfInBounds_toArray, List.set_cons_zero, List.set_cons_succ]
    refine anyCall (i := 36) (oi := { dst := some 55, op := Op.call { callee := Callee.value (Operand.func 29), args := #[Operand.tmp 54], argTypes := #[22] }, type := 27, pos := "law.go:133", after := #[{ on := 35, ground := Ground.data }, { on := 34, ground := Ground.chain }, { on := 34, ground := Ground.guard }], guard := some (34, true) }) rfl (by kernel_rfl) (by rfl) ?_ (((image_nil w11)).mono ?_)
    · go_simp
    rintro e12 w12 ⟨rfl, hw12⟩
    subst hw12
    refine ⟨_, rfl, Keeps.refl _ _, ?_⟩
    simp only [Act.put, List.setIfInBounds_toArray, List.set_cons_zero, List.set_cons_succ]
    refine anyTakeE (i := 37) (oi := { dst := some 56, op := Op.call { callee := Callee.builtin Builtin.len, args := #[Operand.tmp 55], argTypes := #[27] }, type := 3, pos := "law.go:133", after := #[{ on := 36, ground := Ground.data }, { on := 34, ground := Ground.guard }], guard := some (34, true) }) rfl (by kernel_rfl) (by kernel_rfl) (by kernel_rfl) (fun _ _ _ _ h => h) (by rfl) ?_
    apply Exists.intro
    refine ⟨fun w' hk => ?_, ?_⟩
    · go_simp <;> with_reducible rfl
    simp only [Act.put, List.setIfInBounds_toArray, List.set_cons_zero, List.set_cons_succ]
    refine anyTakeE (i := 38) (oi := { dst := some 57, op := Op.binOp BinOp.eql 3 (Operand.tmp 56) (Operand.const (Value.int IntKind.i64 0)) 3, type := 4, pos := "law.go:133", after := #[{ on := 37, ground := Ground.data }, { on := 34, ground := Ground.guard }], guard := some (34, true) }) rfl (by kernel_rfl) (by kernel_rfl) (by kernel_rfl) (fun _ _ _ _ h => h) (by rfl) ?_
    apply Exists.intro
    refine ⟨fun w' hk => ?_, ?_⟩
    · go_simp <;> with_reducible rfl
    simp only [Act.put, List.setIfInBounds_toArray, List.set_cons_zero, List.set_cons_succ]
    refine anyTakeE (i := 39) (oi := { dst := some 58, op := Op.pick (Operand.tmp 53) (Operand.tmp 57) (Operand.const (Value.bool false)), type := 4, pos := "law.go:133", after := #[{ on := 34, ground := Ground.data }, { on := 38, ground := Ground.data }], guard := none }) rfl (by kernel_rfl) (by kernel_rfl) (by kernel_rfl) (fun _ _ _ _ h => h) (by rfl) ?_
    apply Exists.intro
    refine ⟨fun w' hk => ?_, ?_⟩
    · go_simp <;> with_reducible rfl
    simp only [Act.put, List.setIfInBounds_toArray, List.set_cons_zero, List.set_cons_succ]
    refine anyTakeE (i := 40) (oi := { dst := some 59, op := Op.move (Operand.tmp 58), type := 4, pos := "law.go:133", after := #[{ on := 39, ground := Ground.data }, { on := 36, ground := Ground.chain }], guard := none }) rfl (by kernel_rfl) (by kernel_rfl) (by kernel_rfl) (fun _ _ _ _ h => h) (by rfl) ?_
    apply Exists.intro
    refine ⟨fun w' hk => ?_, ?_⟩
    · go_simp <;> with_reducible rfl
    simp only [Act.put, List.setIfInBounds_toArray, List.set_cons_zero, List.set_cons_succ]
    refine anyTakeE (i := 41) (oi := { dst := some 60, op := Op.move (Operand.tmp 3), type := 22, pos := "law.go:133", after := #[{ on := 40, ground := Ground.guard }], guard := some (40, true) }) rfl (by kernel_rfl) (by kernel_rfl) (by kernel_rfl) (fun _ _ _ _ h => h) (by rfl) ?_
    apply Exists.intro
    refine ⟨fun w' hk => ?_, ?_⟩
    · go_simp <;> with_reducible rfl
    simp only [Act.put, List.setIfInBounds_toArray, List.set_cons_zero, List.set_cons_succ]
    refine anyCall (i := 42) (oi := { dst := some 61, op := Op.call { callee := Callee.value (Operand.func 16), args := #[Operand.tmp 60], argTypes := #[22] }, type := 22, pos := "law.go:133", after := #[{ on := 41, ground := Ground.data }, { on := 40, ground := Ground.chain }, { on := 40, ground := Ground.guard }], guard := some (40, true) }) rfl (by kernel_rfl) (by rfl) ?_ (((clone_nil w12)).mono ?_)
    · go_simp
    rintro e13 w13 ⟨rfl, hw13⟩
    subst hw13
    refine ⟨_, rfl, Keeps.refl _ _, ?_⟩
    simp only [Act.put, List.setIfInBounds_toArray, List.set_cons_zero, List.set_cons_succ]
    refine anyTakeE (i := 43) (oi := { dst := some 62, op := Op.binOp BinOp.eql 22 (Operand.tmp 61) (Operand.const (Value.pointer none)) 22, type := 4, pos := "law.go:133", after := #[{ on := 42, ground := Ground.data }, { on := 40, ground := Ground.guard }], guard := some (40, true) }) rfl (by kernel_rfl) (by kernel_rfl) (by kernel_rfl) (fun _ _ _ _ h => h) (by rfl) ?_
    apply Exists.intro
    refine ⟨fun w' hk => ?_, ?_⟩
    · go_simp <;> with_reducible rfl
    simp only [Act.put, List.setIfInBounds_toArray, List.set_cons_zero, List.set_cons_succ]
    refine anyTakeE (i := 44) (oi := { dst := some 63, op := Op.pick (Operand.tmp 59) (Operand.tmp 62) (Operand.const (Value.bool false)), type := 4, pos := "law.go:133", after := #[{ on := 40, ground := Ground.data }, { on := 43, ground := Ground.data }], guard := none }) rfl (by kernel_rfl) (by kernel_rfl) (by kernel_rfl) (fun _ _ _ _ h => h) (by rfl) ?_
    apply Exists.intro
    refine ⟨fun w' hk => ?_, ?_⟩
    · go_simp <;> with_reducible rfl
    simp only [Act.put, List.setIfInBounds_toArray, List.set_cons_zero, List.set_cons_succ]
    refine anyTakeE (i := 45) (oi := { dst := some 2, op := Op.assign (Operand.tmp 63), type := 4, pos := "law.go:133", after := #[{ on := 44, ground := Ground.data }, { on := 42, ground := Ground.chain }, { on := 0, ground := Ground.phase }, { on := 1, ground := Ground.phase }, { on := 2, ground := Ground.phase }, { on := 3, ground := Ground.phase }, { on := 4, ground := Ground.phase }, { on := 5, ground := Ground.phase }, { on := 6, ground := Ground.phase }, { on := 7, ground := Ground.phase }, { on := 8, ground := Ground.phase }, { on := 9, ground := Ground.phase }, { on := 10, ground := Ground.phase }, { on := 11, ground := Ground.phase }, { on := 12, ground := Ground.phase }, { on := 13, ground := Ground.phase }, { on := 14, ground := Ground.phase }, { on := 15, ground := Ground.phase }, { on := 16, ground := Ground.phase }, { on := 17, ground := Ground.phase }, { on := 18, ground := Ground.phase }, { on := 19, ground := Ground.phase }, { on := 20, ground := Ground.phase }, { on := 21, ground := Ground.phase }, { on := 22, ground := Ground.phase }, { on := 23, ground := Ground.phase }, { on := 24, ground := Ground.phase }, { on := 25, ground := Ground.phase }, { on := 26, ground := Ground.phase }, { on := 27, ground := Ground.phase }, { on := 28, ground := Ground.phase }, { on := 29, ground := Ground.phase }, { on := 30, ground := Ground.phase }, { on := 31, ground := Ground.phase }, { on := 32, ground := Ground.phase }, { on := 33, ground := Ground.phase }, { on := 34, ground := Ground.phase }, { on := 35, ground := Ground.phase }, { on := 36, ground := Ground.phase }, { on := 37, ground := Ground.phase }, { on := 38, ground := Ground.phase }, { on := 39, ground := Ground.phase }, { on := 40, ground := Ground.phase }, { on := 41, ground := Ground.phase }, { on := 42, ground := Ground.phase }, { on := 43, ground := Ground.phase }, { on := 44, ground := Ground.phase }], guard := none }) rfl (by kernel_rfl) (by kernel_rfl) (by kernel_rfl) (fun _ _ _ _ h => h) (by rfl) ?_
    apply Exists.intro
    refine ⟨fun w' hk => ?_, ?_⟩
    · go_simp <;> with_reducible rfl
    simp only [Act.put, List.setIfInBounds_toArray, List.set_cons_zero, List.set_cons_succ]
    refine anyDone (by kernel_rfl) ?_ _
    go_wp2
    go_ret
    exact ⟨rfl, HB9.out⟩

set_option maxRecDepth 100000 in
theorem lifted (os : Os) (started : os.Started) (H : Type) (enc : TypeId × Value → H) :
    ReturnsInHanded {} Try.checked os 5 .any (Rows.diskNilSpec.pre6 enc Try.prog Try.f5 Rows.diskNilRow.domain false) (Rows.diskNilSpec.post enc Try.prog Try.f5 false true false false) := by
  refine returnsInHanded_of_change (C := Try.checked) own started (by kernel_rfl) Try.func5
    (ChangeSpec.witness6 (enc := enc) (C := Try.checked) false ⟨#[], #[.agg #[.int .i64 0, .int .i64 0, .int .u8 0, .bool false, .slice none 0 0]], []⟩ 8 (by kernel_rfl) (by kernel_rfl) (by kernel_rfl) (by kernel_rfl)) ?_
  intro W base args ds gs before hval0 hW hcnd _
  have hval : ∀ (j : Nat) t v, Try.f5.params[j]? = some t → args[j]? = some v → Value.okWide Try.prog W .any base t v := hval0
  have hW' := hW
  obtain ⟨p, q, hA0, hV, rfl, hfz, hnd⟩ := hW
  have hA : DataW.TrodAll enc Try.prog W 0 (fun _ => true) true Try.f5.params.toList args.toList ds p := hA0
  rw [Try.params5] at hA hval
  obtain ⟨v0, vs0, d0, ds0, p0, q0, hargs, rfl, rfl, h0, r0⟩ := trodAll_cons hA
  obtain ⟨rfl, rfl, rfl⟩ := trodAll_nil r0
  obtain rfl : args = #[v0] := by cases args; simp_all
  obtain ⟨rfl, rfl⟩ := trodVars_none hV
  obtain ⟨cs, rfl, -⟩ := okWide_struct Try.underlying46 (hval 0 46 v0 rfl rfl)
  have k0 := h0
  have lt0 : ∀ x ∈ p0, x.block < W.heap.size := by obtain ⟨m, hm⟩ := k0; exact DataW.trod_lt m _ _ _ hm
  obtain ⟨fuel, hf⟩ := h0
  obtain ⟨v, hcs, hok⟩ := open_act hf
  obtain rfl : cs = v.cells.toArray := by
    have : cs.toList = v.cells := hcs
    rw [← this]
  clear hA0 hval0
  refine (walk v W hok).mono fun e W' ⟨he, bel⟩ => ?_
  subst he
  exact ⟨_, rfl, _, _, _, [], _, [], hW', trodAll_mk1 (shut_bool Try.underlying4 _), (trodAll_cons_mk (Below.trod laidOut (by kernel_rfl) (of_decide_eq_true (by kernel_rfl)) k0 bel lt0) trodAll_mk0), rfl, bel.frame _, fun h => by cases h⟩

theorem over : Rows.diskNilRow.holds Try.pinned (OpenSpec.ofChange Rows.diskNilSpec) :=
  OpenClaim.holds_of_wide 5 Try.f5 rfl rfl rfl rfl rfl rfl rfl ⟨rfl, rfl, rfl, rfl, rfl⟩ rfl rfl rfl rfl rfl (by kernel_rfl) Try.func5 (by kernel_rfl)
    (of_decide_eq_true (by kernel_rfl)) (by unfold Func.isWrapper; first | (rw [if_pos (by decide +kernel)]; kernel_rfl) | (rw [if_neg (by decide +kernel)]; exact ⟨rfl, rfl⟩))
    (fun os started H enc _ => lifted os started H enc)

/-- The statement. -/
theorem proved : Rows.DiskNilSaid := over
#print axioms proved
end Go.Proofs.Ytfhjcfoecmbhkaa.diskNil
