/- Several texts in one. No statement is proved here. -/
import Derived.Test.YtgdimnbdnepbgaaM3
import Derived.Test.YtgdimnbdnepbgaaM2
/- Points in extended coordinates: add. No statement is proved here. -/
namespace Go.Proofs.Ytgdimnbdnepbgaa
open Go.RowKit
set_option linter.unusedVariables false
set_option maxRecDepth 40000
set_option linter.unusedSimpArgs false
def oEC0 : Oper := { dst := some 12, op := Op.move (Operand.tmp 1), type := 80, pos := "extended.go:29", after := #[], guard := none }
def oEC1 : Oper := { dst := some 13, op := Op.nilCheck (Operand.tmp 12), type := 0, pos := "extended.go:29", after := #[{ on := 0, ground := Ground.data }], guard := none }
def oEC2 : Oper := { dst := some 14, op := Op.fieldAddr 76 (Operand.tmp 13) 2, type := 0, pos := "extended.go:29", after := #[{ on := 1, ground := Ground.data }], guard := none }
def oEC3 : Oper := { dst := some 15, op := Op.load 23 (Operand.tmp 14), type := 23, pos := "extended.go:29", after := #[{ on := 2, ground := Ground.data }], guard := none }
def oEC4 : Oper := { dst := some 16, op := Op.move (Operand.tmp 2), type := 80, pos := "extended.go:29", after := #[], guard := none }
def oEC5 : Oper := { dst := some 17, op := Op.nilCheck (Operand.tmp 16), type := 0, pos := "extended.go:29", after := #[{ on := 4, ground := Ground.data }], guard := none }
def oEC6 : Oper := { dst := some 18, op := Op.fieldAddr 76 (Operand.tmp 17) 2, type := 0, pos := "extended.go:29", after := #[{ on := 5, ground := Ground.data }], guard := none }
def oEC7 : Oper := { dst := some 19, op := Op.load 23 (Operand.tmp 18), type := 23, pos := "extended.go:29", after := #[{ on := 6, ground := Ground.data }], guard := none }
def oEC8 : Oper := { dst := some 20, op := Op.call { callee := Callee.value (Operand.func 25), args := #[Operand.tmp 15, Operand.tmp 19], argTypes := #[23, 23] }, type := 23, pos := "extended.go:29", after := #[{ on := 3, ground := Ground.data }, { on := 7, ground := Ground.data }], guard := none }
def oEC9 : Oper := { dst := some 6, op := Op.alloc 23, type := 0, pos := "extended.go:29", after := #[], guard := none }
def oEC10 : Oper := { dst := none, op := Op.store 23 (Operand.tmp 6) (Operand.tmp 20), type := 0, pos := "extended.go:29", after := #[{ on := 9, ground := Ground.data }, { on := 8, ground := Ground.data }, { on := 8, ground := Ground.chain }, { on := 0, ground := Ground.phase }, { on := 1, ground := Ground.phase }, { on := 2, ground := Ground.phase }, { on := 3, ground := Ground.phase }, { on := 4, ground := Ground.phase }, { on := 5, ground := Ground.phase }, { on := 6, ground := Ground.phase }, { on := 7, ground := Ground.phase }, { on := 8, ground := Ground.phase }, { on := 9, ground := Ground.phase }], guard := none }
def oEC11 : Oper := { dst := some 22, op := Op.move (Operand.tmp 1), type := 80, pos := "extended.go:30", after := #[], guard := none }
def oEC12 : Oper := { dst := some 23, op := Op.nilCheck (Operand.tmp 22), type := 0, pos := "extended.go:30", after := #[{ on := 1, ground := Ground.data }], guard := none }
def oEC13 : Oper := { dst := some 24, op := Op.fieldAddr 76 (Operand.tmp 23) 3, type := 0, pos := "extended.go:30", after := #[{ on := 2, ground := Ground.data }], guard := none }
def oEC14 : Oper := { dst := some 25, op := Op.load 23 (Operand.tmp 24), type := 23, pos := "extended.go:30", after := #[{ on := 3, ground := Ground.data }], guard := none }
def oEC15 : Oper := { dst := some 26, op := Op.move (Operand.tmp 2), type := 80, pos := "extended.go:30", after := #[], guard := none }
def oEC16 : Oper := { dst := some 27, op := Op.nilCheck (Operand.tmp 26), type := 0, pos := "extended.go:30", after := #[{ on := 5, ground := Ground.data }], guard := none }
def oEC17 : Oper := { dst := some 28, op := Op.fieldAddr 76 (Operand.tmp 27) 3, type := 0, pos := "extended.go:30", after := #[{ on := 6, ground := Ground.data }], guard := none }
def oEC18 : Oper := { dst := some 29, op := Op.load 23 (Operand.tmp 28), type := 23, pos := "extended.go:30", after := #[{ on := 7, ground := Ground.data }], guard := none }
def oEC19 : Oper := { dst := some 21, op := Op.call { callee := Callee.value (Operand.func 45), args := #[], argTypes := #[] }, type := 23, pos := "extended.go:30", after := #[], guard := none }
def oEC20 : Oper := { dst := some 30, op := Op.call { callee := Callee.value (Operand.func 25), args := #[Operand.tmp 25, Operand.tmp 29], argTypes := #[23, 23] }, type := 23, pos := "extended.go:30", after := #[{ on := 4, ground := Ground.data }, { on := 8, ground := Ground.data }, { on := 0, ground := Ground.chain }], guard := none }
def oEC21 : Oper := { dst := some 31, op := Op.call { callee := Callee.value (Operand.func 25), args := #[Operand.tmp 21, Operand.tmp 30], argTypes := #[23, 23] }, type := 23, pos := "extended.go:30", after := #[{ on := 0, ground := Ground.data }, { on := 9, ground := Ground.data }, { on := 9, ground := Ground.chain }], guard := none }
def oEC22 : Oper := { dst := some 7, op := Op.alloc 23, type := 0, pos := "extended.go:30", after := #[], guard := none }
def oEC23 : Oper := { dst := none, op := Op.store 23 (Operand.tmp 7) (Operand.tmp 31), type := 0, pos := "extended.go:30", after := #[{ on := 11, ground := Ground.data }, { on := 10, ground := Ground.data }, { on := 10, ground := Ground.chain }, { on := 0, ground := Ground.phase }, { on := 1, ground := Ground.phase }, { on := 2, ground := Ground.phase }, { on := 3, ground := Ground.phase }, { on := 4, ground := Ground.phase }, { on := 5, ground := Ground.phase }, { on := 6, ground := Ground.phase }, { on := 7, ground := Ground.phase }, { on := 8, ground := Ground.phase }, { on := 9, ground := Ground.phase }, { on := 10, ground := Ground.phase }, { on := 11, ground := Ground.phase }], guard := none }
def oEC24 : Oper := { dst := some 32, op := Op.move (Operand.tmp 1), type := 80, pos := "extended.go:31", after := #[], guard := none }
def oEC25 : Oper := { dst := some 33, op := Op.nilCheck (Operand.tmp 32), type := 0, pos := "extended.go:31", after := #[{ on := 0, ground := Ground.data }], guard := none }
def oEC26 : Oper := { dst := some 34, op := Op.fieldAddr 76 (Operand.tmp 33) 0, type := 0, pos := "extended.go:31", after := #[{ on := 1, ground := Ground.data }], guard := none }
def oEC27 : Oper := { dst := some 35, op := Op.load 23 (Operand.tmp 34), type := 23, pos := "extended.go:31", after := #[{ on := 2, ground := Ground.data }], guard := none }
def oEC28 : Oper := { dst := some 36, op := Op.move (Operand.tmp 2), type := 80, pos := "extended.go:31", after := #[], guard := none }
def oEC29 : Oper := { dst := some 37, op := Op.nilCheck (Operand.tmp 36), type := 0, pos := "extended.go:31", after := #[{ on := 4, ground := Ground.data }], guard := none }
def oEC30 : Oper := { dst := some 38, op := Op.fieldAddr 76 (Operand.tmp 37) 1, type := 0, pos := "extended.go:31", after := #[{ on := 5, ground := Ground.data }], guard := none }
def oEC31 : Oper := { dst := some 39, op := Op.load 23 (Operand.tmp 38), type := 23, pos := "extended.go:31", after := #[{ on := 6, ground := Ground.data }], guard := none }
def oEC32 : Oper := { dst := some 41, op := Op.move (Operand.tmp 1), type := 80, pos := "extended.go:31", after := #[], guard := none }
def oEC33 : Oper := { dst := some 42, op := Op.nilCheck (Operand.tmp 41), type := 0, pos := "extended.go:31", after := #[{ on := 9, ground := Ground.data }], guard := none }
def oEC34 : Oper := { dst := some 43, op := Op.fieldAddr 76 (Operand.tmp 42) 1, type := 0, pos := "extended.go:31", after := #[{ on := 10, ground := Ground.data }], guard := none }
def oEC35 : Oper := { dst := some 44, op := Op.load 23 (Operand.tmp 43), type := 23, pos := "extended.go:31", after := #[{ on := 11, ground := Ground.data }], guard := none }
def oEC36 : Oper := { dst := some 45, op := Op.move (Operand.tmp 2), type := 80, pos := "extended.go:31", after := #[], guard := none }
def oEC37 : Oper := { dst := some 46, op := Op.nilCheck (Operand.tmp 45), type := 0, pos := "extended.go:31", after := #[{ on := 13, ground := Ground.data }], guard := none }
def oEC38 : Oper := { dst := some 47, op := Op.fieldAddr 76 (Operand.tmp 46) 0, type := 0, pos := "extended.go:31", after := #[{ on := 14, ground := Ground.data }], guard := none }
def oEC39 : Oper := { dst := some 48, op := Op.load 23 (Operand.tmp 47), type := 23, pos := "extended.go:31", after := #[{ on := 15, ground := Ground.data }], guard := none }
def oEC40 : Oper := { dst := some 40, op := Op.call { callee := Callee.value (Operand.func 25), args := #[Operand.tmp 35, Operand.tmp 39], argTypes := #[23, 23] }, type := 23, pos := "extended.go:31", after := #[{ on := 3, ground := Ground.data }, { on := 7, ground := Ground.data }], guard := none }
def oEC41 : Oper := { dst := some 49, op := Op.call { callee := Callee.value (Operand.func 25), args := #[Operand.tmp 44, Operand.tmp 48], argTypes := #[23, 23] }, type := 23, pos := "extended.go:31", after := #[{ on := 12, ground := Ground.data }, { on := 16, ground := Ground.data }, { on := 8, ground := Ground.chain }], guard := none }
def oEC42 : Oper := { dst := some 50, op := Op.call { callee := Callee.value (Operand.func 19), args := #[Operand.tmp 40, Operand.tmp 49], argTypes := #[23, 23] }, type := 23, pos := "extended.go:31", after := #[{ on := 8, ground := Ground.data }, { on := 17, ground := Ground.data }, { on := 17, ground := Ground.chain }], guard := none }
def oEC43 : Oper := { dst := some 8, op := Op.alloc 23, type := 0, pos := "extended.go:31", after := #[], guard := none }
def oEC44 : Oper := { dst := none, op := Op.store 23 (Operand.tmp 8) (Operand.tmp 50), type := 0, pos := "extended.go:31", after := #[{ on := 19, ground := Ground.data }, { on := 18, ground := Ground.data }, { on := 18, ground := Ground.chain }, { on := 0, ground := Ground.phase }, { on := 1, ground := Ground.phase }, { on := 2, ground := Ground.phase }, { on := 3, ground := Ground.phase }, { on := 4, ground := Ground.phase }, { on := 5, ground := Ground.phase }, { on := 6, ground := Ground.phase }, { on := 7, ground := Ground.phase }, { on := 8, ground := Ground.phase }, { on := 9, ground := Ground.phase }, { on := 10, ground := Ground.phase }, { on := 11, ground := Ground.phase }, { on := 12, ground := Ground.phase }, { on := 13, ground := Ground.phase }, { on := 14, ground := Ground.phase }, { on := 15, ground := Ground.phase }, { on := 16, ground := Ground.phase }, { on := 17, ground := Ground.phase }, { on := 18, ground := Ground.phase }, { on := 19, ground := Ground.phase }], guard := none }
def oEC45 : Oper := { dst := some 51, op := Op.move (Operand.tmp 1), type := 80, pos := "extended.go:32", after := #[], guard := none }
def oEC46 : Oper := { dst := some 52, op := Op.nilCheck (Operand.tmp 51), type := 0, pos := "extended.go:32", after := #[{ on := 0, ground := Ground.data }], guard := none }
def oEC47 : Oper := { dst := some 53, op := Op.fieldAddr 76 (Operand.tmp 52) 1, type := 0, pos := "extended.go:32", after := #[{ on := 1, ground := Ground.data }], guard := none }
def oEC48 : Oper := { dst := some 54, op := Op.load 23 (Operand.tmp 53), type := 23, pos := "extended.go:32", after := #[{ on := 2, ground := Ground.data }], guard := none }
def oEC49 : Oper := { dst := some 55, op := Op.move (Operand.tmp 2), type := 80, pos := "extended.go:32", after := #[], guard := none }
def oEC50 : Oper := { dst := some 56, op := Op.nilCheck (Operand.tmp 55), type := 0, pos := "extended.go:32", after := #[{ on := 4, ground := Ground.data }], guard := none }
def oEC51 : Oper := { dst := some 57, op := Op.fieldAddr 76 (Operand.tmp 56) 1, type := 0, pos := "extended.go:32", after := #[{ on := 5, ground := Ground.data }], guard := none }
def oEC52 : Oper := { dst := some 58, op := Op.load 23 (Operand.tmp 57), type := 23, pos := "extended.go:32", after := #[{ on := 6, ground := Ground.data }], guard := none }
def oEC53 : Oper := { dst := some 60, op := Op.move (Operand.tmp 1), type := 80, pos := "extended.go:32", after := #[], guard := none }
def oEC54 : Oper := { dst := some 61, op := Op.nilCheck (Operand.tmp 60), type := 0, pos := "extended.go:32", after := #[{ on := 9, ground := Ground.data }], guard := none }
def oEC55 : Oper := { dst := some 62, op := Op.fieldAddr 76 (Operand.tmp 61) 0, type := 0, pos := "extended.go:32", after := #[{ on := 10, ground := Ground.data }], guard := none }
def oEC56 : Oper := { dst := some 63, op := Op.load 23 (Operand.tmp 62), type := 23, pos := "extended.go:32", after := #[{ on := 11, ground := Ground.data }], guard := none }
def oEC57 : Oper := { dst := some 64, op := Op.move (Operand.tmp 2), type := 80, pos := "extended.go:32", after := #[], guard := none }
def oEC58 : Oper := { dst := some 65, op := Op.nilCheck (Operand.tmp 64), type := 0, pos := "extended.go:32", after := #[{ on := 13, ground := Ground.data }], guard := none }
def oEC59 : Oper := { dst := some 66, op := Op.fieldAddr 76 (Operand.tmp 65) 0, type := 0, pos := "extended.go:32", after := #[{ on := 14, ground := Ground.data }], guard := none }
def oEC60 : Oper := { dst := some 67, op := Op.load 23 (Operand.tmp 66), type := 23, pos := "extended.go:32", after := #[{ on := 15, ground := Ground.data }], guard := none }
def oEC61 : Oper := { dst := some 59, op := Op.call { callee := Callee.value (Operand.func 25), args := #[Operand.tmp 54, Operand.tmp 58], argTypes := #[23, 23] }, type := 23, pos := "extended.go:32", after := #[{ on := 3, ground := Ground.data }, { on := 7, ground := Ground.data }], guard := none }
def oEC62 : Oper := { dst := some 68, op := Op.call { callee := Callee.value (Operand.func 25), args := #[Operand.tmp 63, Operand.tmp 67], argTypes := #[23, 23] }, type := 23, pos := "extended.go:32", after := #[{ on := 12, ground := Ground.data }, { on := 16, ground := Ground.data }, { on := 8, ground := Ground.chain }], guard := none }
def oEC63 : Oper := { dst := some 69, op := Op.call { callee := Callee.value (Operand.func 19), args := #[Operand.tmp 59, Operand.tmp 68], argTypes := #[23, 23] }, type := 23, pos := "extended.go:32", after := #[{ on := 8, ground := Ground.data }, { on := 17, ground := Ground.data }, { on := 17, ground := Ground.chain }], guard := none }
def oEC64 : Oper := { dst := some 9, op := Op.alloc 23, type := 0, pos := "extended.go:32", after := #[], guard := none }
def oEC65 : Oper := { dst := none, op := Op.store 23 (Operand.tmp 9) (Operand.tmp 69), type := 0, pos := "extended.go:32", after := #[{ on := 19, ground := Ground.data }, { on := 18, ground := Ground.data }, { on := 18, ground := Ground.chain }, { on := 0, ground := Ground.phase }, { on := 1, ground := Ground.phase }, { on := 2, ground := Ground.phase }, { on := 3, ground := Ground.phase }, { on := 4, ground := Ground.phase }, { on := 5, ground := Ground.phase }, { on := 6, ground := Ground.phase }, { on := 7, ground := Ground.phase }, { on := 8, ground := Ground.phase }, { on := 9, ground := Ground.phase }, { on := 10, ground := Ground.phase }, { on := 11, ground := Ground.phase }, { on := 12, ground := Ground.phase }, { on := 13, ground := Ground.phase }, { on := 14, ground := Ground.phase }, { on := 15, ground := Ground.phase }, { on := 16, ground := Ground.phase }, { on := 17, ground := Ground.phase }, { on := 18, ground := Ground.phase }, { on := 19, ground := Ground.phase }], guard := none }
def oEC66 : Oper := { dst := some 70, op := Op.load 23 (Operand.tmp 6), type := 23, pos := "extended.go:33", after := #[], guard := none }
def oEC67 : Oper := { dst := some 71, op := Op.load 23 (Operand.tmp 7), type := 23, pos := "extended.go:33", after := #[], guard := none }
def oEC68 : Oper := { dst := some 73, op := Op.load 23 (Operand.tmp 6), type := 23, pos := "extended.go:33", after := #[], guard := none }
def oEC69 : Oper := { dst := some 74, op := Op.load 23 (Operand.tmp 7), type := 23, pos := "extended.go:33", after := #[], guard := none }
def oEC70 : Oper := { dst := some 72, op := Op.call { callee := Callee.value (Operand.func 19), args := #[Operand.tmp 70, Operand.tmp 71], argTypes := #[23, 23] }, type := 23, pos := "extended.go:33", after := #[{ on := 0, ground := Ground.data }, { on := 1, ground := Ground.data }], guard := none }
def oEC71 : Oper := { dst := some 75, op := Op.call { callee := Callee.value (Operand.func 21), args := #[Operand.tmp 73, Operand.tmp 74], argTypes := #[23, 23] }, type := 23, pos := "extended.go:33", after := #[{ on := 3, ground := Ground.data }, { on := 4, ground := Ground.data }, { on := 2, ground := Ground.chain }], guard := none }
def oEC72 : Oper := { dst := some 10, op := Op.alloc 23, type := 0, pos := "extended.go:33", after := #[], guard := none }
def oEC73 : Oper := { dst := some 11, op := Op.alloc 23, type := 0, pos := "extended.go:33", after := #[], guard := none }
def oEC74 : Oper := { dst := none, op := Op.store 23 (Operand.tmp 10) (Operand.tmp 72), type := 0, pos := "extended.go:33", after := #[{ on := 6, ground := Ground.data }, { on := 2, ground := Ground.data }, { on := 5, ground := Ground.chain }, { on := 0, ground := Ground.phase }, { on := 1, ground := Ground.phase }, { on := 2, ground := Ground.phase }, { on := 3, ground := Ground.textOnly Departure.lateStores }, { on := 4, ground := Ground.textOnly Departure.lateStores }, { on := 5, ground := Ground.phase }, { on := 6, ground := Ground.phase }, { on := 7, ground := Ground.phase }], guard := none }
def oEC75 : Oper := { dst := none, op := Op.store 23 (Operand.tmp 11) (Operand.tmp 75), type := 0, pos := "extended.go:33", after := #[{ on := 7, ground := Ground.data }, { on := 5, ground := Ground.data }, { on := 8, ground := Ground.chain }, { on := 0, ground := Ground.phase }, { on := 1, ground := Ground.phase }, { on := 2, ground := Ground.phase }, { on := 3, ground := Ground.phase }, { on := 4, ground := Ground.phase }, { on := 5, ground := Ground.phase }, { on := 6, ground := Ground.phase }, { on := 7, ground := Ground.phase }, { on := 8, ground := Ground.phase }], guard := none }

set_option maxHeartbeats 8000000 in
theorem eadd_core (g gp gq r0 r1 r2 r3 x1 y1 z1 t1 x2 y2 z2 t2 one dd tt d a1 a2 x b1 b2 y ox oy X Y Z T : Nat) (w : World)
    (C0 : Hid (∀ w, Calls Try.prog 25 #[vN z1, vN z2] w (Gives (vN one) w)))
    (C1 : Hid (∀ w, Calls Try.prog 45 #[] w (Gives (vN dd) w)))
    (C2 : Hid (∀ w, Calls Try.prog 25 #[vN t1, vN t2] w (Gives (vN tt) w)))
    (C3 : Hid (∀ w, Calls Try.prog 25 #[vN dd, vN tt] w (Gives (vN d) w)))
    (C4 : Hid (∀ w, Calls Try.prog 25 #[vN x1, vN y2] w (Gives (vN a1) w)))
    (C5 : Hid (∀ w, Calls Try.prog 25 #[vN y1, vN x2] w (Gives (vN a2) w)))
    (C6 : Hid (∀ w, Calls Try.prog 19 #[vN a1, vN a2] w (Gives (vN x) w)))
    (C7 : Hid (∀ w, Calls Try.prog 25 #[vN y1, vN y2] w (Gives (vN b1) w)))
    (C8 : Hid (∀ w, Calls Try.prog 25 #[vN x1, vN x2] w (Gives (vN b2) w)))
    (C9 : Hid (∀ w, Calls Try.prog 19 #[vN b1, vN b2] w (Gives (vN y) w)))
    (C10 : Hid (∀ w, Calls Try.prog 19 #[vN one, vN d] w (Gives (vN ox) w)))
    (C11 : Hid (∀ w, Calls Try.prog 21 #[vN one, vN d] w (Gives (vN oy) w)))
    (HD : Hid (∀ (w : World) (g1 g2 g3 g4 : Nat), RAt w g [r0, r1, r2, r3] → RAt w g1 [x] → RAt w g2 [ox] → RAt w g3 [y] → RAt w g4 [oy] → g ≠ g1 → g ≠ g2 → g ≠ g3 → g ≠ g4 → Calls Try.prog 100 #[.pointer (some ⟨g, 0, none⟩), .pointer (some ⟨g1, 0, none⟩), .pointer (some ⟨g2, 0, none⟩), .pointer (some ⟨g3, 0, none⟩), .pointer (some ⟨g4, 0, none⟩)] w (SetsR g [X, Y, Z, T] w)))
    (RG_0 : Hid (RAt w g [r0, r1, r2, r3])) (RX_0 : Hid (RAt w gp [x1, y1, z1, t1])) (RY_0 : Hid (RAt w gq [x2, y2, z2, t2])) :
    Calls Try.prog 81 #[.pointer (some ⟨g, 0, none⟩), .pointer (some ⟨gp, 0, none⟩), .pointer (some ⟨gq, 0, none⟩)] w (SetsR g [X, Y, Z, T] w) := by
  have HF_0 : Hid (Keeps (· = g) w w) := Lib.hid (Keeps.refl _ _)
  go_enter Try.func81, Try.ntmps81
  go_wp2_with fail
  have HLT27_0 := lR RG_0
  have HLT27_1 := lR RX_0
  have HLT27_2 := lR RY_0
  have HLO27 : Hid (w.heap.size ≤ w.heap.size) := Lib.hid HF_0.out.size
  refine region_split (fun a' W => ∃ a27_0, RAt W g [r0, r1, r2, r3] ∧ RAt W gp [x1, y1, z1, t1] ∧ RAt W gq [x2, y2, z2, t2] ∧ RAt W a27_0 [one] ∧ w.heap.size ≤ a27_0 ∧ Keeps (· = g) w W ∧ a' = ⟨#[.pointer (some ⟨g, 0, none⟩), .pointer (some ⟨gp, 0, none⟩), .pointer (some ⟨gq, 0, none⟩), undef, undef, undef, .pointer (some ⟨a27_0, 0, none⟩), undef, undef, undef, undef, undef, .pointer (some ⟨gp, 0, none⟩), .pointer (some ⟨gp, 0, none⟩), .pointer (some ⟨gp, 64, none⟩), vN z1, .pointer (some ⟨gq, 0, none⟩), .pointer (some ⟨gq, 0, none⟩), .pointer (some ⟨gq, 64, none⟩), vN z2, vN one, undef, undef, undef, undef, undef, undef, undef, undef, undef, undef, undef, undef, undef, undef, undef, undef, undef, undef, undef, undef, undef, undef, undef, undef, undef, undef, undef, undef, undef, undef, undef, undef, undef, undef, undef, undef, undef, undef, undef, undef, undef, undef, undef, undef, undef, undef, undef, undef, undef, undef, undef, undef, undef, undef, undef, undef, undef], []⟩) ?_ ?_
  · refine startW (fun j => j == 10) (w.heap.size) (by kernel_rfl) ?_
    obtain ⟨D27, hD27⟩ : ∃ D, D = w.drew := ⟨_, rfl⟩
    rw [← hD27]
    have HL_27 := dLq hD27
    have RG_27 := dRq hD27 RG_0
    have RX_27 := dRq hD27 RX_0
    have RY_27 := dRq hD27 RY_0
    have HF_27 := dFq hD27 HF_0
    clear hD27 RG_0 RX_0 RY_0 HF_0
    refine tA (i := 0) (oi := oEC0) ?_
    refine ⟨.pointer (some ⟨gp, 0, none⟩), fun w' => exec_move (.tmp 1) rfl _ rfl, ?_⟩
    simp only [oEC0, Act.put, zA, zB, zC]
    refine tA (i := 1) (oi := oEC1) ?_
    refine ⟨.pointer (some ⟨gp, 0, none⟩), fun w' => exec_nil (.tmp 12) rfl _ rfl, ?_⟩
    simp only [oEC1, Act.put, zA, zB, zC]
    refine tA (i := 2) (oi := oEC2) ?_
    refine ⟨.pointer (some ⟨gp, 64, none⟩), fun w' => exec_field 76 (.tmp 13) 2 rfl _ 64 rfl (fld76_2 _), ?_⟩
    simp only [oEC2, Act.put, zA, zB, zC]
    refine takeT (i := 3) (oi := oEC3) (vN z1) rfl (by kernel_rfl) (by kernel_rfl) (by kernel_rfl) (by kernel_rfl) (by kernel_rfl) (fun _ _ _ h => nomatch h.1) (by rfl) (fun w' hk => exec_loadF (.tmp 14) rfl (gp) 2 64 rfl [x1, y1, z1, t1] z1 rfl (RX_27.out.below hk HLT27_1.out) rfl) ?_
    simp only [oEC3, Act.put, zA, zB, zC]
    refine tA (i := 4) (oi := oEC4) ?_
    refine ⟨.pointer (some ⟨gq, 0, none⟩), fun w' => exec_move (.tmp 2) rfl _ rfl, ?_⟩
    simp only [oEC4, Act.put, zA, zB, zC]
    refine tA (i := 5) (oi := oEC5) ?_
    refine ⟨.pointer (some ⟨gq, 0, none⟩), fun w' => exec_nil (.tmp 16) rfl _ rfl, ?_⟩
    simp only [oEC5, Act.put, zA, zB, zC]
    refine tA (i := 6) (oi := oEC6) ?_
    refine ⟨.pointer (some ⟨gq, 64, none⟩), fun w' => exec_field 76 (.tmp 17) 2 rfl _ 64 rfl (fld76_2 _), ?_⟩
    simp only [oEC6, Act.put, zA, zB, zC]
    refine takeT (i := 7) (oi := oEC7) (vN z2) rfl (by kernel_rfl) (by kernel_rfl) (by kernel_rfl) (by kernel_rfl) (by kernel_rfl) (fun _ _ _ h => nomatch h.1) (by rfl) (fun w' hk => exec_loadF (.tmp 18) rfl (gq) 2 64 rfl [x2, y2, z2, t2] z2 rfl (RY_27.out.below hk HLT27_2.out) rfl) ?_
    simp only [oEC7, Act.put, zA, zB, zC]
    refine eachW [8, 9] (by kernel_rfl) (by simp) ?_
    intro k hk
    simp only [zM, zN, or_false] at hk
    rcases hk with rfl | rfl
    · refine wpOp_call (i := 8) (oi := oEC8) rfl (by rfl) (exec_callL 25 [.tmp 15, .tmp 19] #[23, 23] rfl [vN z1, vN z2] rfl (CG25 _)) ((C0.out D27).mono ?_)
      rintro e28 W28 ⟨rfl, hb28⟩
      refine ⟨_, rfl, fun _ => hb28.mono HL_27.out, ?_⟩
      have RG_28 := hKq RG_27 hb28
      have RX_28 := hKq RX_27 hb28
      have RY_28 := hKq RY_27 hb28
      have HF_28 := fCq HF_27 hb28
      have HL_28 := lT HL_27 hb28
      clear hb28 HL_27 RG_27 RX_27 RY_27 HF_27
      simp only [oEC8, Act.put, zA, zB, zC]
      refine opW _ _ (i := 9) (oi := oEC9) rfl (by kernel_rfl) (by rfl) (exec_alloc 23 rfl (.agg (zbs 32)) zero23 W28) (fun _ => (below_alloc W28 _).mono HL_28.out) ?_
      obtain ⟨W29, hW29, hb29, hz29⟩ := alloc_zero W28
      rw [← hW29]
      obtain ⟨g29, hg29⟩ : ∃ g, g = W28.heap.size := ⟨_, rfl⟩
      rw [← hg29] at hz29 ⊢
      have HG29 := gE hg29 HL_28
      have HX29_0 := nXq RG_28 hg29
      have HX29_1 := nXq RX_28 hg29
      have HX29_2 := nXq RY_28 hg29
      have RG_29 := hKq RG_28 hb29
      have RX_29 := hKq RX_28 hb29
      have RY_29 := hKq RY_28 hb29
      have HF_29 := fCq HF_28 hb29
      have HL_29 := lT HL_28 hb29
      have RZ29_29 := zrq hz29
      clear hb29 hz29 hg29 hW29 HL_28 RG_28 RX_28 RY_28 HF_28
      simp only [oEC9, Act.put, zA, zB, zC]
      refine storeW_F (i := 10) (oi := oEC10) rfl (by kernel_rfl) (by rfl) (.tmp 6) (.tmp 20) rfl (g29) 0 0 rfl [0] one rfl rfl RZ29_29.out (show 0 < 1 by omega) rfl ?_
      intro W30 hr30 hg30 hz30
      simp only [oEC10, Act.put, zA, zB, zC]
      have RG_30 := hGq RG_29 hg30 HX29_0
      have RX_30 := hGq RX_29 hg30 HX29_1
      have RY_30 := hGq RY_29 hg30 HX29_2
      have RZ29_30 : Hid (RAt W30 g29 [one]) := Lib.hid hr30
      have HF_30 := fNq HF_29 hg30 HG29 HLO27
      have HL_30 := lG HL_29 hg30
      clear hr30 hg30 hz30 HL_29 RG_29 RX_29 RY_29 RZ29_29 HF_29
      refine doneW (by kernel_rfl) ⟨rfl, ?_⟩ _
      exact ⟨g29, RG_30.out, RX_30.out, RY_30.out, RZ29_30.out, HG29.out, HF_30.out, rfl⟩
    · refine wpOp_value (i := 9) (oi := oEC9) rfl (by rfl) (exec_alloc 23 rfl (.agg (zbs 32)) zero23 D27) ⟨fun _ => (below_alloc D27 _).mono HL_27.out, ?_⟩
      obtain ⟨W31, hW31, hb31, hz31⟩ := alloc_zero D27
      rw [← hW31]
      obtain ⟨g31, hg31⟩ : ∃ g, g = D27.heap.size := ⟨_, rfl⟩
      rw [← hg31] at hz31 ⊢
      have HG31 := gE hg31 HL_27
      have HX31_0 := nXq RG_27 hg31
      have HX31_1 := nXq RX_27 hg31
      have HX31_2 := nXq RY_27 hg31
      have RG_31 := hKq RG_27 hb31
      have RX_31 := hKq RX_27 hb31
      have RY_31 := hKq RY_27 hb31
      have HF_31 := fCq HF_27 hb31
      have HL_31 := lT HL_27 hb31
      have RZ31_31 := zrq hz31
      clear hb31 hz31 hg31 hW31 HL_27 RG_27 RX_27 RY_27 HF_27
      simp only [oEC9, Act.put, zA, zB, zC]
      refine callW (i := 8) (oi := oEC8) rfl (by kernel_rfl) (by rfl) (exec_callL 25 [.tmp 15, .tmp 19] #[23, 23] rfl [vN z1, vN z2] rfl (CG25 _)) ((C0.out W31).mono ?_)
      rintro e32 W32 ⟨rfl, hb32⟩
      refine ⟨_, rfl, fun _ => hb32.mono HL_31.out, ?_⟩
      have RG_32 := hKq RG_31 hb32
      have RX_32 := hKq RX_31 hb32
      have RY_32 := hKq RY_31 hb32
      have RZ31_32 := hKq RZ31_31 hb32
      have HF_32 := fCq HF_31 hb32
      have HL_32 := lT HL_31 hb32
      clear hb32 HL_31 RG_31 RX_31 RY_31 RZ31_31 HF_31
      simp only [oEC8, Act.put, zA, zB, zC]
      refine storeW_F (i := 10) (oi := oEC10) rfl (by kernel_rfl) (by rfl) (.tmp 6) (.tmp 20) rfl (g31) 0 0 rfl [0] one rfl rfl RZ31_32.out (show 0 < 1 by omega) rfl ?_
      intro W33 hr33 hg33 hz33
      simp only [oEC10, Act.put, zA, zB, zC]
      have RG_33 := hGq RG_32 hg33 HX31_0
      have RX_33 := hGq RX_32 hg33 HX31_1
      have RY_33 := hGq RY_32 hg33 HX31_2
      have RZ31_33 : Hid (RAt W33 g31 [one]) := Lib.hid hr33
      have HF_33 := fNq HF_32 hg33 HG31 HLO27
      have HL_33 := lG HL_32 hg33
      clear hr33 hg33 hz33 HL_32 RG_32 RX_32 RY_32 RZ31_32 HF_32
      refine doneW (by kernel_rfl) ⟨rfl, ?_⟩ _
      exact ⟨g31, RG_33.out, RX_33.out, RY_33.out, RZ31_33.out, HG31.out, HF_33.out, rfl⟩
  rintro a' v34 ⟨a27_0, h0, h1, h2, h3, k0, hF, rfl⟩
  have RG_34 := Lib.hid h0
  have RX_34 := Lib.hid h1
  have RY_34 := Lib.hid h2
  have Na27_0_34 := Lib.hid h3
  have HNE34_0 : Hid (g ≠ a27_0) := Lib.hid (by have := HLT27_0.out; omega)
  have HNE34_1 : Hid (gp ≠ a27_0) := Lib.hid (by have := HLT27_1.out; omega)
  have HNE34_2 : Hid (gq ≠ a27_0) := Lib.hid (by have := HLT27_2.out; omega)
  have HGE34_0 : Hid (w.heap.size ≤ a27_0) := Lib.hid (by have := HLO27.out; omega)
  have HF_34 := Lib.hid hF
  clear h0 h1 h2 h3 k0 hF HLT27_0 HLT27_1 HLT27_2 HLO27 RG_0 RX_0 RY_0 HF_0
  go_wp2_with fail
  have HLT35_0 := lR RG_34
  have HLT35_1 := lR RX_34
  have HLT35_2 := lR RY_34
  have HLT35_3 := lR Na27_0_34
  have HLO35 : Hid (w.heap.size ≤ v34.heap.size) := Lib.hid HF_34.out.size
  refine region_split (fun a' W => ∃ a35_0, RAt W g [r0, r1, r2, r3] ∧ RAt W gp [x1, y1, z1, t1] ∧ RAt W gq [x2, y2, z2, t2] ∧ RAt W a27_0 [one] ∧ RAt W a35_0 [d] ∧ v34.heap.size ≤ a35_0 ∧ Keeps (· = g) w W ∧ a' = ⟨#[.pointer (some ⟨g, 0, none⟩), .pointer (some ⟨gp, 0, none⟩), .pointer (some ⟨gq, 0, none⟩), undef, undef, undef, .pointer (some ⟨a27_0, 0, none⟩), .pointer (some ⟨a35_0, 0, none⟩), undef, undef, undef, undef, .pointer (some ⟨gp, 0, none⟩), .pointer (some ⟨gp, 0, none⟩), .pointer (some ⟨gp, 64, none⟩), vN z1, .pointer (some ⟨gq, 0, none⟩), .pointer (some ⟨gq, 0, none⟩), .pointer (some ⟨gq, 64, none⟩), vN z2, vN one, vN dd, .pointer (some ⟨gp, 0, none⟩), .pointer (some ⟨gp, 0, none⟩), .pointer (some ⟨gp, 96, none⟩), vN t1, .pointer (some ⟨gq, 0, none⟩), .pointer (some ⟨gq, 0, none⟩), .pointer (some ⟨gq, 96, none⟩), vN t2, vN tt, vN d, undef, undef, undef, undef, undef, undef, undef, undef, undef, undef, undef, undef, undef, undef, undef, undef, undef, undef, undef, undef, undef, undef, undef, undef, undef, undef, undef, undef, undef, undef, undef, undef, undef, undef, undef, undef, undef, undef, undef, undef, undef, undef, undef, undef, undef, undef], []⟩) ?_ ?_
  · refine startW (fun j => j == 12) (v34.heap.size) (by kernel_rfl) ?_
    obtain ⟨D35, hD35⟩ : ∃ D, D = v34.drew := ⟨_, rfl⟩
    rw [← hD35]
    have HL_35 := dLq hD35
    have RG_35 := dRq hD35 RG_34
    have RX_35 := dRq hD35 RX_34
    have RY_35 := dRq hD35 RY_34
    have Na27_0_35 := dRq hD35 Na27_0_34
    have HF_35 := dFq hD35 HF_34
    clear hD35 RG_34 RX_34 RY_34 Na27_0_34 HF_34
    refine tA (i := 1) (oi := oEC11) ?_
    refine ⟨.pointer (some ⟨gp, 0, none⟩), fun w' => exec_move (.tmp 1) rfl _ rfl, ?_⟩
    simp only [oEC11, Act.put, zA, zB, zC]
    refine tA (i := 2) (oi := oEC12) ?_
    refine ⟨.pointer (some ⟨gp, 0, none⟩), fun w' => exec_nil (.tmp 22) rfl _ rfl, ?_⟩
    simp only [oEC12, Act.put, zA, zB, zC]
    refine tA (i := 3) (oi := oEC13) ?_
    refine ⟨.pointer (some ⟨gp, 96, none⟩), fun w' => exec_field 76 (.tmp 23) 3 rfl _ 96 rfl (fld76_3 _), ?_⟩
    simp only [oEC13, Act.put, zA, zB, zC]
    refine takeT (i := 4) (oi := oEC14) (vN t1) rfl (by kernel_rfl) (by kernel_rfl) (by kernel_rfl) (by kernel_rfl) (by kernel_rfl) (fun _ _ _ h => nomatch h.1) (by rfl) (fun w' hk => exec_loadF (.tmp 24) rfl (gp) 3 96 rfl [x1, y1, z1, t1] t1 rfl (RX_35.out.below hk HLT35_1.out) rfl) ?_
    simp only [oEC14, Act.put, zA, zB, zC]
    refine tA (i := 5) (oi := oEC15) ?_
    refine ⟨.pointer (some ⟨gq, 0, none⟩), fun w' => exec_move (.tmp 2) rfl _ rfl, ?_⟩
    simp only [oEC15, Act.put, zA, zB, zC]
    refine tA (i := 6) (oi := oEC16) ?_
    refine ⟨.pointer (some ⟨gq, 0, none⟩), fun w' => exec_nil (.tmp 26) rfl _ rfl, ?_⟩
    simp only [oEC16, Act.put, zA, zB, zC]
    refine tA (i := 7) (oi := oEC17) ?_
    refine ⟨.pointer (some ⟨gq, 96, none⟩), fun w' => exec_field 76 (.tmp 27) 3 rfl _ 96 rfl (fld76_3 _), ?_⟩
    simp only [oEC17, Act.put, zA, zB, zC]
    refine takeT (i := 8) (oi := oEC18) (vN t2) rfl (by kernel_rfl) (by kernel_rfl) (by kernel_rfl) (by kernel_rfl) (by kernel_rfl) (fun _ _ _ h => nomatch h.1) (by rfl) (fun w' hk => exec_loadF (.tmp 28) rfl (gq) 3 96 rfl [x2, y2, z2, t2] t2 rfl (RY_35.out.below hk HLT35_2.out) rfl) ?_
    simp only [oEC18, Act.put, zA, zB, zC]
    refine eachW [0, 11] (by kernel_rfl) (by simp) ?_
    intro k hk
    simp only [zM, zN, or_false] at hk
    rcases hk with rfl | rfl
    · refine wpOp_call (i := 0) (oi := oEC19) rfl (by rfl) (exec_callL 45 [] #[] rfl [] rfl (CG45 _)) ((C1.out D35).mono ?_)
      rintro e36 W36 ⟨rfl, hb36⟩
      refine ⟨_, rfl, fun _ => hb36.mono HL_35.out, ?_⟩
      have RG_36 := hKq RG_35 hb36
      have RX_36 := hKq RX_35 hb36
      have RY_36 := hKq RY_35 hb36
      have Na27_0_36 := hKq Na27_0_35 hb36
      have HF_36 := fCq HF_35 hb36
      have HL_36 := lT HL_35 hb36
      clear hb36 HL_35 RG_35 RX_35 RY_35 Na27_0_35 HF_35
      simp only [oEC19, Act.put, zA, zB, zC]
      refine eachW [9, 11] (by kernel_rfl) (by simp) ?_
      intro k hk
      simp only [zM, zN, or_false] at hk
      rcases hk with rfl | rfl
      · refine wpOp_call (i := 9) (oi := oEC20) rfl (by rfl) (exec_callL 25 [.tmp 25, .tmp 29] #[23, 23] rfl [vN t1, vN t2] rfl (CG25 _)) ((C2.out W36).mono ?_)
        rintro e37 W37 ⟨rfl, hb37⟩
        refine ⟨_, rfl, fun _ => hb37.mono HL_36.out, ?_⟩
        have RG_37 := hKq RG_36 hb37
        have RX_37 := hKq RX_36 hb37
        have RY_37 := hKq RY_36 hb37
        have Na27_0_37 := hKq Na27_0_36 hb37
        have HF_37 := fCq HF_36 hb37
        have HL_37 := lT HL_36 hb37
        clear hb37 HL_36 RG_36 RX_36 RY_36 Na27_0_36 HF_36
        simp only [oEC20, Act.put, zA, zB, zC]
        refine eachW [10, 11] (by kernel_rfl) (by simp) ?_
        intro k hk
        simp only [zM, zN, or_false] at hk
        rcases hk with rfl | rfl
        · refine wpOp_call (i := 10) (oi := oEC21) rfl (by rfl) (exec_callL 25 [.tmp 21, .tmp 30] #[23, 23] rfl [vN dd, vN tt] rfl (CG25 _)) ((C3.out W37).mono ?_)
          rintro e38 W38 ⟨rfl, hb38⟩
          refine ⟨_, rfl, fun _ => hb38.mono HL_37.out, ?_⟩
          have RG_38 := hKq RG_37 hb38
          have RX_38 := hKq RX_37 hb38
          have RY_38 := hKq RY_37 hb38
          have Na27_0_38 := hKq Na27_0_37 hb38
          have HF_38 := fCq HF_37 hb38
          have HL_38 := lT HL_37 hb38
          clear hb38 HL_37 RG_37 RX_37 RY_37 Na27_0_37 HF_37
          simp only [oEC21, Act.put, zA, zB, zC]
          refine opW _ _ (i := 11) (oi := oEC22) rfl (by kernel_rfl) (by rfl) (exec_alloc 23 rfl (.agg (zbs 32)) zero23 W38) (fun _ => (below_alloc W38 _).mono HL_38.out) ?_
          obtain ⟨W39, hW39, hb39, hz39⟩ := alloc_zero W38
          rw [← hW39]
          obtain ⟨g39, hg39⟩ : ∃ g, g = W38.heap.size := ⟨_, rfl⟩
          rw [← hg39] at hz39 ⊢
          have HG39 := gE hg39 HL_38
          have HX39_3 := nXq RG_38 hg39
          have HX39_4 := nXq RX_38 hg39
          have HX39_5 := nXq RY_38 hg39
          have HX39_6 := nXq Na27_0_38 hg39
          have RG_39 := hKq RG_38 hb39
          have RX_39 := hKq RX_38 hb39
          have RY_39 := hKq RY_38 hb39
          have Na27_0_39 := hKq Na27_0_38 hb39
          have HF_39 := fCq HF_38 hb39
          have HL_39 := lT HL_38 hb39
          have RZ39_39 := zrq hz39
          clear hb39 hz39 hg39 hW39 HL_38 RG_38 RX_38 RY_38 Na27_0_38 HF_38
          simp only [oEC22, Act.put, zA, zB, zC]
          refine storeW_F (i := 12) (oi := oEC23) rfl (by kernel_rfl) (by rfl) (.tmp 7) (.tmp 31) rfl (g39) 0 0 rfl [0] d rfl rfl RZ39_39.out (show 0 < 1 by omega) rfl ?_
          intro W40 hr40 hg40 hz40
          simp only [oEC23, Act.put, zA, zB, zC]
          have RG_40 := hGq RG_39 hg40 HX39_3
          have RX_40 := hGq RX_39 hg40 HX39_4
          have RY_40 := hGq RY_39 hg40 HX39_5
          have Na27_0_40 := hGq Na27_0_39 hg40 HX39_6
          have RZ39_40 : Hid (RAt W40 g39 [d]) := Lib.hid hr40
          have HF_40 := fNq HF_39 hg40 HG39 HLO35
          have HL_40 := lG HL_39 hg40
          clear hr40 hg40 hz40 HL_39 RG_39 RX_39 RY_39 Na27_0_39 RZ39_39 HF_39
          refine doneW (by kernel_rfl) ⟨rfl, ?_⟩ _
          exact ⟨g39, RG_40.out, RX_40.out, RY_40.out, Na27_0_40.out, RZ39_40.out, HG39.out, HF_40.out, rfl⟩
        · refine wpOp_value (i := 11) (oi := oEC22) rfl (by rfl) (exec_alloc 23 rfl (.agg (zbs 32)) zero23 W37) ⟨fun _ => (below_alloc W37 _).mono HL_37.out, ?_⟩
          obtain ⟨W41, hW41, hb41, hz41⟩ := alloc_zero W37
          rw [← hW41]
          obtain ⟨g41, hg41⟩ : ∃ g, g = W37.heap.size := ⟨_, rfl⟩
          rw [← hg41] at hz41 ⊢
          have HG41 := gE hg41 HL_37
          have HX41_3 := nXq RG_37 hg41
          have HX41_4 := nXq RX_37 hg41
          have HX41_5 := nXq RY_37 hg41
          have HX41_6 := nXq Na27_0_37 hg41
          have RG_41 := hKq RG_37 hb41
          have RX_41 := hKq RX_37 hb41
          have RY_41 := hKq RY_37 hb41
          have Na27_0_41 := hKq Na27_0_37 hb41
          have HF_41 := fCq HF_37 hb41
          have HL_41 := lT HL_37 hb41
          have RZ41_41 := zrq hz41
          clear hb41 hz41 hg41 hW41 HL_37 RG_37 RX_37 RY_37 Na27_0_37 HF_37
          simp only [oEC22, Act.put, zA, zB, zC]
          refine callW (i := 10) (oi := oEC21) rfl (by kernel_rfl) (by rfl) (exec_callL 25 [.tmp 21, .tmp 30] #[23, 23] rfl [vN dd, vN tt] rfl (CG25 _)) ((C3.out W41).mono ?_)
          rintro e42 W42 ⟨rfl, hb42⟩
          refine ⟨_, rfl, fun _ => hb42.mono HL_41.out, ?_⟩
          have RG_42 := hKq RG_41 hb42
          have RX_42 := hKq RX_41 hb42
          have RY_42 := hKq RY_41 hb42
          have Na27_0_42 := hKq Na27_0_41 hb42
          have RZ41_42 := hKq RZ41_41 hb42
          have HF_42 := fCq HF_41 hb42
          have HL_42 := lT HL_41 hb42
          clear hb42 HL_41 RG_41 RX_41 RY_41 Na27_0_41 RZ41_41 HF_41
          simp only [oEC21, Act.put, zA, zB, zC]
          refine storeW_F (i := 12) (oi := oEC23) rfl (by kernel_rfl) (by rfl) (.tmp 7) (.tmp 31) rfl (g41) 0 0 rfl [0] d rfl rfl RZ41_42.out (show 0 < 1 by omega) rfl ?_
          intro W43 hr43 hg43 hz43
          simp only [oEC23, Act.put, zA, zB, zC]
          have RG_43 := hGq RG_42 hg43 HX41_3
          have RX_43 := hGq RX_42 hg43 HX41_4
          have RY_43 := hGq RY_42 hg43 HX41_5
          have Na27_0_43 := hGq Na27_0_42 hg43 HX41_6
          have RZ41_43 : Hid (RAt W43 g41 [d]) := Lib.hid hr43
          have HF_43 := fNq HF_42 hg43 HG41 HLO35
          have HL_43 := lG HL_42 hg43
          clear hr43 hg43 hz43 HL_42 RG_42 RX_42 RY_42 Na27_0_42 RZ41_42 HF_42
          refine doneW (by kernel_rfl) ⟨rfl, ?_⟩ _
          exact ⟨g41, RG_43.out, RX_43.out, RY_43.out, Na27_0_43.out, RZ41_43.out, HG41.out, HF_43.out, rfl⟩
      · refine wpOp_value (i := 11) (oi := oEC22) rfl (by rfl) (exec_alloc 23 rfl (.agg (zbs 32)) zero23 W36) ⟨fun _ => (below_alloc W36 _).mono HL_36.out, ?_⟩
        obtain ⟨W44, hW44, hb44, hz44⟩ := alloc_zero W36
        rw [← hW44]
        obtain ⟨g44, hg44⟩ : ∃ g, g = W36.heap.size := ⟨_, rfl⟩
        rw [← hg44] at hz44 ⊢
        have HG44 := gE hg44 HL_36
        have HX44_3 := nXq RG_36 hg44
        have HX44_4 := nXq RX_36 hg44
        have HX44_5 := nXq RY_36 hg44
        have HX44_6 := nXq Na27_0_36 hg44
        have RG_44 := hKq RG_36 hb44
        have RX_44 := hKq RX_36 hb44
        have RY_44 := hKq RY_36 hb44
        have Na27_0_44 := hKq Na27_0_36 hb44
        have HF_44 := fCq HF_36 hb44
        have HL_44 := lT HL_36 hb44
        have RZ44_44 := zrq hz44
        clear hb44 hz44 hg44 hW44 HL_36 RG_36 RX_36 RY_36 Na27_0_36 HF_36
        simp only [oEC22, Act.put, zA, zB, zC]
        refine callW (i := 9) (oi := oEC20) rfl (by kernel_rfl) (by rfl) (exec_callL 25 [.tmp 25, .tmp 29] #[23, 23] rfl [vN t1, vN t2] rfl (CG25 _)) ((C2.out W44).mono ?_)
        rintro e45 W45 ⟨rfl, hb45⟩
        refine ⟨_, rfl, fun _ => hb45.mono HL_44.out, ?_⟩
        have RG_45 := hKq RG_44 hb45
        have RX_45 := hKq RX_44 hb45
        have RY_45 := hKq RY_44 hb45
        have Na27_0_45 := hKq Na27_0_44 hb45
        have RZ44_45 := hKq RZ44_44 hb45
        have HF_45 := fCq HF_44 hb45
        have HL_45 := lT HL_44 hb45
        clear hb45 HL_44 RG_44 RX_44 RY_44 Na27_0_44 RZ44_44 HF_44
        simp only [oEC20, Act.put, zA, zB, zC]
        refine callW (i := 10) (oi := oEC21) rfl (by kernel_rfl) (by rfl) (exec_callL 25 [.tmp 21, .tmp 30] #[23, 23] rfl [vN dd, vN tt] rfl (CG25 _)) ((C3.out W45).mono ?_)
        rintro e46 W46 ⟨rfl, hb46⟩
        refine ⟨_, rfl, fun _ => hb46.mono HL_45.out, ?_⟩
        have RG_46 := hKq RG_45 hb46
        have RX_46 := hKq RX_45 hb46
        have RY_46 := hKq RY_45 hb46
        have Na27_0_46 := hKq Na27_0_45 hb46
        have RZ44_46 := hKq RZ44_45 hb46
        have HF_46 := fCq HF_45 hb46
        have HL_46 := lT HL_45 hb46
        clear hb46 HL_45 RG_45 RX_45 RY_45 Na27_0_45 RZ44_45 HF_45
        simp only [oEC21, Act.put, zA, zB, zC]
        refine storeW_F (i := 12) (oi := oEC23) rfl (by kernel_rfl) (by rfl) (.tmp 7) (.tmp 31) rfl (g44) 0 0 rfl [0] d rfl rfl RZ44_46.out (show 0 < 1 by omega) rfl ?_
        intro W47 hr47 hg47 hz47
        simp only [oEC23, Act.put, zA, zB, zC]
        have RG_47 := hGq RG_46 hg47 HX44_3
        have RX_47 := hGq RX_46 hg47 HX44_4
        have RY_47 := hGq RY_46 hg47 HX44_5
        have Na27_0_47 := hGq Na27_0_46 hg47 HX44_6
        have RZ44_47 : Hid (RAt W47 g44 [d]) := Lib.hid hr47
        have HF_47 := fNq HF_46 hg47 HG44 HLO35
        have HL_47 := lG HL_46 hg47
        clear hr47 hg47 hz47 HL_46 RG_46 RX_46 RY_46 Na27_0_46 RZ44_46 HF_46
        refine doneW (by kernel_rfl) ⟨rfl, ?_⟩ _
        exact ⟨g44, RG_47.out, RX_47.out, RY_47.out, Na27_0_47.out, RZ44_47.out, HG44.out, HF_47.out, rfl⟩
    · refine wpOp_value (i := 11) (oi := oEC22) rfl (by rfl) (exec_alloc 23 rfl (.agg (zbs 32)) zero23 D35) ⟨fun _ => (below_alloc D35 _).mono HL_35.out, ?_⟩
      obtain ⟨W48, hW48, hb48, hz48⟩ := alloc_zero D35
      rw [← hW48]
      obtain ⟨g48, hg48⟩ : ∃ g, g = D35.heap.size := ⟨_, rfl⟩
      rw [← hg48] at hz48 ⊢
      have HG48 := gE hg48 HL_35
      have HX48_3 := nXq RG_35 hg48
      have HX48_4 := nXq RX_35 hg48
      have HX48_5 := nXq RY_35 hg48
      have HX48_6 := nXq Na27_0_35 hg48
      have RG_48 := hKq RG_35 hb48
      have RX_48 := hKq RX_35 hb48
      have RY_48 := hKq RY_35 hb48
      have Na27_0_48 := hKq Na27_0_35 hb48
      have HF_48 := fCq HF_35 hb48
      have HL_48 := lT HL_35 hb48
      have RZ48_48 := zrq hz48
      clear hb48 hz48 hg48 hW48 HL_35 RG_35 RX_35 RY_35 Na27_0_35 HF_35
      simp only [oEC22, Act.put, zA, zB, zC]
      refine callW (i := 0) (oi := oEC19) rfl (by kernel_rfl) (by rfl) (exec_callL 45 [] #[] rfl [] rfl (CG45 _)) ((C1.out W48).mono ?_)
      rintro e49 W49 ⟨rfl, hb49⟩
      refine ⟨_, rfl, fun _ => hb49.mono HL_48.out, ?_⟩
      have RG_49 := hKq RG_48 hb49
      have RX_49 := hKq RX_48 hb49
      have RY_49 := hKq RY_48 hb49
      have Na27_0_49 := hKq Na27_0_48 hb49
      have RZ48_49 := hKq RZ48_48 hb49
      have HF_49 := fCq HF_48 hb49
      have HL_49 := lT HL_48 hb49
      clear hb49 HL_48 RG_48 RX_48 RY_48 Na27_0_48 RZ48_48 HF_48
      simp only [oEC19, Act.put, zA, zB, zC]
      refine callW (i := 9) (oi := oEC20) rfl (by kernel_rfl) (by rfl) (exec_callL 25 [.tmp 25, .tmp 29] #[23, 23] rfl [vN t1, vN t2] rfl (CG25 _)) ((C2.out W49).mono ?_)
      rintro e50 W50 ⟨rfl, hb50⟩
      refine ⟨_, rfl, fun _ => hb50.mono HL_49.out, ?_⟩
      have RG_50 := hKq RG_49 hb50
      have RX_50 := hKq RX_49 hb50
      have RY_50 := hKq RY_49 hb50
      have Na27_0_50 := hKq Na27_0_49 hb50
      have RZ48_50 := hKq RZ48_49 hb50
      have HF_50 := fCq HF_49 hb50
      have HL_50 := lT HL_49 hb50
      clear hb50 HL_49 RG_49 RX_49 RY_49 Na27_0_49 RZ48_49 HF_49
      simp only [oEC20, Act.put, zA, zB, zC]
      refine callW (i := 10) (oi := oEC21) rfl (by kernel_rfl) (by rfl) (exec_callL 25 [.tmp 21, .tmp 30] #[23, 23] rfl [vN dd, vN tt] rfl (CG25 _)) ((C3.out W50).mono ?_)
      rintro e51 W51 ⟨rfl, hb51⟩
      refine ⟨_, rfl, fun _ => hb51.mono HL_50.out, ?_⟩
      have RG_51 := hKq RG_50 hb51
      have RX_51 := hKq RX_50 hb51
      have RY_51 := hKq RY_50 hb51
      have Na27_0_51 := hKq Na27_0_50 hb51
      have RZ48_51 := hKq RZ48_50 hb51
      have HF_51 := fCq HF_50 hb51
      have HL_51 := lT HL_50 hb51
      clear hb51 HL_50 RG_50 RX_50 RY_50 Na27_0_50 RZ48_50 HF_50
      simp only [oEC21, Act.put, zA, zB, zC]
      refine storeW_F (i := 12) (oi := oEC23) rfl (by kernel_rfl) (by rfl) (.tmp 7) (.tmp 31) rfl (g48) 0 0 rfl [0] d rfl rfl RZ48_51.out (show 0 < 1 by omega) rfl ?_
      intro W52 hr52 hg52 hz52
      simp only [oEC23, Act.put, zA, zB, zC]
      have RG_52 := hGq RG_51 hg52 HX48_3
      have RX_52 := hGq RX_51 hg52 HX48_4
      have RY_52 := hGq RY_51 hg52 HX48_5
      have Na27_0_52 := hGq Na27_0_51 hg52 HX48_6
      have RZ48_52 : Hid (RAt W52 g48 [d]) := Lib.hid hr52
      have HF_52 := fNq HF_51 hg52 HG48 HLO35
      have HL_52 := lG HL_51 hg52
      clear hr52 hg52 hz52 HL_51 RG_51 RX_51 RY_51 Na27_0_51 RZ48_51 HF_51
      refine doneW (by kernel_rfl) ⟨rfl, ?_⟩ _
      exact ⟨g48, RG_52.out, RX_52.out, RY_52.out, Na27_0_52.out, RZ48_52.out, HG48.out, HF_52.out, rfl⟩
  rintro a' v53 ⟨a35_0, h0, h1, h2, h3, h4, k0, hF, rfl⟩
  have RG_53 := Lib.hid h0
  have RX_53 := Lib.hid h1
  have RY_53 := Lib.hid h2
  have Na27_0_53 := Lib.hid h3
  have Na35_0_53 := Lib.hid h4
  have HNE53_3 : Hid (g ≠ a35_0) := Lib.hid (by have := HLT35_0.out; omega)
  have HNE53_4 : Hid (gp ≠ a35_0) := Lib.hid (by have := HLT35_1.out; omega)
  have HNE53_5 : Hid (gq ≠ a35_0) := Lib.hid (by have := HLT35_2.out; omega)
  have HNE53_6 : Hid (a27_0 ≠ a35_0) := Lib.hid (by have := HLT35_3.out; omega)
  have HGE53_0 : Hid (w.heap.size ≤ a35_0) := Lib.hid (by have := HLO35.out; omega)
  have HF_53 := Lib.hid hF
  clear h0 h1 h2 h3 h4 k0 hF HLT35_0 HLT35_1 HLT35_2 HLT35_3 HLO35 RG_34 RX_34 RY_34 Na27_0_34 HF_34
  go_wp2_with fail
  have HLT54_0 := lR RG_53
  have HLT54_1 := lR RX_53
  have HLT54_2 := lR RY_53
  have HLT54_3 := lR Na27_0_53
  have HLT54_4 := lR Na35_0_53
  have HLO54 : Hid (w.heap.size ≤ v53.heap.size) := Lib.hid HF_53.out.size
  refine region_split (fun a' W => ∃ a54_0, RAt W g [r0, r1, r2, r3] ∧ RAt W gp [x1, y1, z1, t1] ∧ RAt W gq [x2, y2, z2, t2] ∧ RAt W a27_0 [one] ∧ RAt W a35_0 [d] ∧ RAt W a54_0 [x] ∧ v53.heap.size ≤ a54_0 ∧ Keeps (· = g) w W ∧ a' = ⟨#[.pointer (some ⟨g, 0, none⟩), .pointer (some ⟨gp, 0, none⟩), .pointer (some ⟨gq, 0, none⟩), undef, undef, undef, .pointer (some ⟨a27_0, 0, none⟩), .pointer (some ⟨a35_0, 0, none⟩), .pointer (some ⟨a54_0, 0, none⟩), undef, undef, undef, .pointer (some ⟨gp, 0, none⟩), .pointer (some ⟨gp, 0, none⟩), .pointer (some ⟨gp, 64, none⟩), vN z1, .pointer (some ⟨gq, 0, none⟩), .pointer (some ⟨gq, 0, none⟩), .pointer (some ⟨gq, 64, none⟩), vN z2, vN one, vN dd, .pointer (some ⟨gp, 0, none⟩), .pointer (some ⟨gp, 0, none⟩), .pointer (some ⟨gp, 96, none⟩), vN t1, .pointer (some ⟨gq, 0, none⟩), .pointer (some ⟨gq, 0, none⟩), .pointer (some ⟨gq, 96, none⟩), vN t2, vN tt, vN d, .pointer (some ⟨gp, 0, none⟩), .pointer (some ⟨gp, 0, none⟩), .pointer (some ⟨gp, 0, none⟩), vN x1, .pointer (some ⟨gq, 0, none⟩), .pointer (some ⟨gq, 0, none⟩), .pointer (some ⟨gq, 32, none⟩), vN y2, vN a1, .pointer (some ⟨gp, 0, none⟩), .pointer (some ⟨gp, 0, none⟩), .pointer (some ⟨gp, 32, none⟩), vN y1, .pointer (some ⟨gq, 0, none⟩), .pointer (some ⟨gq, 0, none⟩), .pointer (some ⟨gq, 0, none⟩), vN x2, vN a2, vN x, undef, undef, undef, undef, undef, undef, undef, undef, undef, undef, undef, undef, undef, undef, undef, undef, undef, undef, undef, undef, undef, undef, undef, undef, undef, undef, undef], []⟩) ?_ ?_
  · refine startW (fun j => j == 20) (v53.heap.size) (by kernel_rfl) ?_
    obtain ⟨D54, hD54⟩ : ∃ D, D = v53.drew := ⟨_, rfl⟩
    rw [← hD54]
    have HL_54 := dLq hD54
    have RG_54 := dRq hD54 RG_53
    have RX_54 := dRq hD54 RX_53
    have RY_54 := dRq hD54 RY_53
    have Na27_0_54 := dRq hD54 Na27_0_53
    have Na35_0_54 := dRq hD54 Na35_0_53
    have HF_54 := dFq hD54 HF_53
    clear hD54 RG_53 RX_53 RY_53 Na27_0_53 Na35_0_53 HF_53
    refine tA (i := 0) (oi := oEC24) ?_
    refine ⟨.pointer (some ⟨gp, 0, none⟩), fun w' => exec_move (.tmp 1) rfl _ rfl, ?_⟩
    simp only [oEC24, Act.put, zA, zB, zC]
    refine tA (i := 1) (oi := oEC25) ?_
    refine ⟨.pointer (some ⟨gp, 0, none⟩), fun w' => exec_nil (.tmp 32) rfl _ rfl, ?_⟩
    simp only [oEC25, Act.put, zA, zB, zC]
    refine tA (i := 2) (oi := oEC26) ?_
    refine ⟨.pointer (some ⟨gp, 0, none⟩), fun w' => exec_field 76 (.tmp 33) 0 rfl _ 0 rfl (fld76_0 _), ?_⟩
    simp only [oEC26, Act.put, zA, zB, zC]
    refine takeT (i := 3) (oi := oEC27) (vN x1) rfl (by kernel_rfl) (by kernel_rfl) (by kernel_rfl) (by kernel_rfl) (by kernel_rfl) (fun _ _ _ h => nomatch h.1) (by rfl) (fun w' hk => exec_loadF (.tmp 34) rfl (gp) 0 0 rfl [x1, y1, z1, t1] x1 rfl (RX_54.out.below hk HLT54_1.out) rfl) ?_
    simp only [oEC27, Act.put, zA, zB, zC]
    refine tA (i := 4) (oi := oEC28) ?_
    refine ⟨.pointer (some ⟨gq, 0, none⟩), fun w' => exec_move (.tmp 2) rfl _ rfl, ?_⟩
    simp only [oEC28, Act.put, zA, zB, zC]
    refine tA (i := 5) (oi := oEC29) ?_
    refine ⟨.pointer (some ⟨gq, 0, none⟩), fun w' => exec_nil (.tmp 36) rfl _ rfl, ?_⟩
    simp only [oEC29, Act.put, zA, zB, zC]
    refine tA (i := 6) (oi := oEC30) ?_
    refine ⟨.pointer (some ⟨gq, 32, none⟩), fun w' => exec_field 76 (.tmp 37) 1 rfl _ 32 rfl (fld76_1 _), ?_⟩
    simp only [oEC30, Act.put, zA, zB, zC]
    refine takeT (i := 7) (oi := oEC31) (vN y2) rfl (by kernel_rfl) (by kernel_rfl) (by kernel_rfl) (by kernel_rfl) (by kernel_rfl) (fun _ _ _ h => nomatch h.1) (by rfl) (fun w' hk => exec_loadF (.tmp 38) rfl (gq) 1 32 rfl [x2, y2, z2, t2] y2 rfl (RY_54.out.below hk HLT54_2.out) rfl) ?_
    simp only [oEC31, Act.put, zA, zB, zC]
    refine tA (i := 9) (oi := oEC32) ?_
    refine ⟨.pointer (some ⟨gp, 0, none⟩), fun w' => exec_move (.tmp 1) rfl _ rfl, ?_⟩
    simp only [oEC32, Act.put, zA, zB, zC]
    refine tA (i := 10) (oi := oEC33) ?_
    refine ⟨.pointer (some ⟨gp, 0, none⟩), fun w' => exec_nil (.tmp 41) rfl _ rfl, ?_⟩
    simp only [oEC33, Act.put, zA, zB, zC]
    refine tA (i := 11) (oi := oEC34) ?_
    refine ⟨.pointer (some ⟨gp, 32, none⟩), fun w' => exec_field 76 (.tmp 42) 1 rfl _ 32 rfl (fld76_1 _), ?_⟩
    simp only [oEC34, Act.put, zA, zB, zC]
    refine takeT (i := 12) (oi := oEC35) (vN y1) rfl (by kernel_rfl) (by kernel_rfl) (by kernel_rfl) (by kernel_rfl) (by kernel_rfl) (fun _ _ _ h => nomatch h.1) (by rfl) (fun w' hk => exec_loadF (.tmp 43) rfl (gp) 1 32 rfl [x1, y1, z1, t1] y1 rfl (RX_54.out.below hk HLT54_1.out) rfl) ?_
    simp only [oEC35, Act.put, zA, zB, zC]
    refine tA (i := 13) (oi := oEC36) ?_
    refine ⟨.pointer (some ⟨gq, 0, none⟩), fun w' => exec_move (.tmp 2) rfl _ rfl, ?_⟩
    simp only [oEC36, Act.put, zA, zB, zC]
    refine tA (i := 14) (oi := oEC37) ?_
    refine ⟨.pointer (some ⟨gq, 0, none⟩), fun w' => exec_nil (.tmp 45) rfl _ rfl, ?_⟩
    simp only [oEC37, Act.put, zA, zB, zC]
    refine tA (i := 15) (oi := oEC38) ?_
    refine ⟨.pointer (some ⟨gq, 0, none⟩), fun w' => exec_field 76 (.tmp 46) 0 rfl _ 0 rfl (fld76_0 _), ?_⟩
    simp only [oEC38, Act.put, zA, zB, zC]
    refine takeT (i := 16) (oi := oEC39) (vN x2) rfl (by kernel_rfl) (by kernel_rfl) (by kernel_rfl) (by kernel_rfl) (by kernel_rfl) (fun _ _ _ h => nomatch h.1) (by rfl) (fun w' hk => exec_loadF (.tmp 47) rfl (gq) 0 0 rfl [x2, y2, z2, t2] x2 rfl (RY_54.out.below hk HLT54_2.out) rfl) ?_
    simp only [oEC39, Act.put, zA, zB, zC]
    refine eachW [8, 19] (by kernel_rfl) (by simp) ?_
    intro k hk
    simp only [zM, zN, or_false] at hk
    rcases hk with rfl | rfl
    · refine wpOp_call (i := 8) (oi := oEC40) rfl (by rfl) (exec_callL 25 [.tmp 35, .tmp 39] #[23, 23] rfl [vN x1, vN y2] rfl (CG25 _)) ((C4.out D54).mono ?_)
      rintro e55 W55 ⟨rfl, hb55⟩
      refine ⟨_, rfl, fun _ => hb55.mono HL_54.out, ?_⟩
      have RG_55 := hKq RG_54 hb55
      have RX_55 := hKq RX_54 hb55
      have RY_55 := hKq RY_54 hb55
      have Na27_0_55 := hKq Na27_0_54 hb55
      have Na35_0_55 := hKq Na35_0_54 hb55
      have HF_55 := fCq HF_54 hb55
      have HL_55 := lT HL_54 hb55
      clear hb55 HL_54 RG_54 RX_54 RY_54 Na27_0_54 Na35_0_54 HF_54
      simp only [oEC40, Act.put, zA, zB, zC]
      refine eachW [17, 19] (by kernel_rfl) (by simp) ?_
      intro k hk
      simp only [zM, zN, or_false] at hk
      rcases hk with rfl | rfl
      · refine wpOp_call (i := 17) (oi := oEC41) rfl (by rfl) (exec_callL 25 [.tmp 44, .tmp 48] #[23, 23] rfl [vN y1, vN x2] rfl (CG25 _)) ((C5.out W55).mono ?_)
        rintro e56 W56 ⟨rfl, hb56⟩
        refine ⟨_, rfl, fun _ => hb56.mono HL_55.out, ?_⟩
        have RG_56 := hKq RG_55 hb56
        have RX_56 := hKq RX_55 hb56
        have RY_56 := hKq RY_55 hb56
        have Na27_0_56 := hKq Na27_0_55 hb56
        have Na35_0_56 := hKq Na35_0_55 hb56
        have HF_56 := fCq HF_55 hb56
        have HL_56 := lT HL_55 hb56
        clear hb56 HL_55 RG_55 RX_55 RY_55 Na27_0_55 Na35_0_55 HF_55
        simp only [oEC41, Act.put, zA, zB, zC]
        refine eachW [18, 19] (by kernel_rfl) (by simp) ?_
        intro k hk
        simp only [zM, zN, or_false] at hk
        rcases hk with rfl | rfl
        · refine wpOp_call (i := 18) (oi := oEC42) rfl (by rfl) (exec_callL 19 [.tmp 40, .tmp 49] #[23, 23] rfl [vN a1, vN a2] rfl (CG19 _)) ((C6.out W56).mono ?_)
          rintro e57 W57 ⟨rfl, hb57⟩
          refine ⟨_, rfl, fun _ => hb57.mono HL_56.out, ?_⟩
          have RG_57 := hKq RG_56 hb57
          have RX_57 := hKq RX_56 hb57
          have RY_57 := hKq RY_56 hb57
          have Na27_0_57 := hKq Na27_0_56 hb57
          have Na35_0_57 := hKq Na35_0_56 hb57
          have HF_57 := fCq HF_56 hb57
          have HL_57 := lT HL_56 hb57
          clear hb57 HL_56 RG_56 RX_56 RY_56 Na27_0_56 Na35_0_56 HF_56
          simp only [oEC42, Act.put, zA, zB, zC]
          refine opW _ _ (i := 19) (oi := oEC43) rfl (by kernel_rfl) (by rfl) (exec_alloc 23 rfl (.agg (zbs 32)) zero23 W57) (fun _ => (below_alloc W57 _).mono HL_57.out) ?_
          obtain ⟨W58, hW58, hb58, hz58⟩ := alloc_zero W57
          rw [← hW58]
          obtain ⟨g58, hg58⟩ : ∃ g, g = W57.heap.size := ⟨_, rfl⟩
          rw [← hg58] at hz58 ⊢
          have HG58 := gE hg58 HL_57
          have HX58_7 := nXq RG_57 hg58
          have HX58_8 := nXq RX_57 hg58
          have HX58_9 := nXq RY_57 hg58
          have HX58_10 := nXq Na27_0_57 hg58
          have HX58_11 := nXq Na35_0_57 hg58
          have RG_58 := hKq RG_57 hb58
          have RX_58 := hKq RX_57 hb58
          have RY_58 := hKq RY_57 hb58
          have Na27_0_58 := hKq Na27_0_57 hb58
          have Na35_0_58 := hKq Na35_0_57 hb58
          have HF_58 := fCq HF_57 hb58
          have HL_58 := lT HL_57 hb58
          have RZ58_58 := zrq hz58
          clear hb58 hz58 hg58 hW58 HL_57 RG_57 RX_57 RY_57 Na27_0_57 Na35_0_57 HF_57
          simp only [oEC43, Act.put, zA, zB, zC]
          refine storeW_F (i := 20) (oi := oEC44) rfl (by kernel_rfl) (by rfl) (.tmp 8) (.tmp 50) rfl (g58) 0 0 rfl [0] x rfl rfl RZ58_58.out (show 0 < 1 by omega) rfl ?_
          intro W59 hr59 hg59 hz59
          simp only [oEC44, Act.put, zA, zB, zC]
          have RG_59 := hGq RG_58 hg59 HX58_7
          have RX_59 := hGq RX_58 hg59 HX58_8
          have RY_59 := hGq RY_58 hg59 HX58_9
          have Na27_0_59 := hGq Na27_0_58 hg59 HX58_10
          have Na35_0_59 := hGq Na35_0_58 hg59 HX58_11
          have RZ58_59 : Hid (RAt W59 g58 [x]) := Lib.hid hr59
          have HF_59 := fNq HF_58 hg59 HG58 HLO54
          have HL_59 := lG HL_58 hg59
          clear hr59 hg59 hz59 HL_58 RG_58 RX_58 RY_58 Na27_0_58 Na35_0_58 RZ58_58 HF_58
          refine doneW (by kernel_rfl) ⟨rfl, ?_⟩ _
          exact ⟨g58, RG_59.out, RX_59.out, RY_59.out, Na27_0_59.out, Na35_0_59.out, RZ58_59.out, HG58.out, HF_59.out, rfl⟩
        · refine wpOp_value (i := 19) (oi := oEC43) rfl (by rfl) (exec_alloc 23 rfl (.agg (zbs 32)) zero23 W56) ⟨fun _ => (below_alloc W56 _).mono HL_56.out, ?_⟩
          obtain ⟨W60, hW60, hb60, hz60⟩ := alloc_zero W56
          rw [← hW60]
          obtain ⟨g60, hg60⟩ : ∃ g, g = W56.heap.size := ⟨_, rfl⟩
          rw [← hg60] at hz60 ⊢
          have HG60 := gE hg60 HL_56
          have HX60_7 := nXq RG_56 hg60
          have HX60_8 := nXq RX_56 hg60
          have HX60_9 := nXq RY_56 hg60
          have HX60_10 := nXq Na27_0_56 hg60
          have HX60_11 := nXq Na35_0_56 hg60
          have RG_60 := hKq RG_56 hb60
          have RX_60 := hKq RX_56 hb60
          have RY_60 := hKq RY_56 hb60
          have Na27_0_60 := hKq Na27_0_56 hb60
          have Na35_0_60 := hKq Na35_0_56 hb60
          have HF_60 := fCq HF_56 hb60
          have HL_60 := lT HL_56 hb60
          have RZ60_60 := zrq hz60
          clear hb60 hz60 hg60 hW60 HL_56 RG_56 RX_56 RY_56 Na27_0_56 Na35_0_56 HF_56
          simp only [oEC43, Act.put, zA, zB, zC]
          refine callW (i := 18) (oi := oEC42) rfl (by kernel_rfl) (by rfl) (exec_callL 19 [.tmp 40, .tmp 49] #[23, 23] rfl [vN a1, vN a2] rfl (CG19 _)) ((C6.out W60).mono ?_)
          rintro e61 W61 ⟨rfl, hb61⟩
          refine ⟨_, rfl, fun _ => hb61.mono HL_60.out, ?_⟩
          have RG_61 := hKq RG_60 hb61
          have RX_61 := hKq RX_60 hb61
          have RY_61 := hKq RY_60 hb61
          have Na27_0_61 := hKq Na27_0_60 hb61
          have Na35_0_61 := hKq Na35_0_60 hb61
          have RZ60_61 := hKq RZ60_60 hb61
          have HF_61 := fCq HF_60 hb61
          have HL_61 := lT HL_60 hb61
          clear hb61 HL_60 RG_60 RX_60 RY_60 Na27_0_60 Na35_0_60 RZ60_60 HF_60
          simp only [oEC42, Act.put, zA, zB, zC]
          refine storeW_F (i := 20) (oi := oEC44) rfl (by kernel_rfl) (by rfl) (.tmp 8) (.tmp 50) rfl (g60) 0 0 rfl [0] x rfl rfl RZ60_61.out (show 0 < 1 by omega) rfl ?_
          intro W62 hr62 hg62 hz62
          simp only [oEC44, Act.put, zA, zB, zC]
          have RG_62 := hGq RG_61 hg62 HX60_7
          have RX_62 := hGq RX_61 hg62 HX60_8
          have RY_62 := hGq RY_61 hg62 HX60_9
          have Na27_0_62 := hGq Na27_0_61 hg62 HX60_10
          have Na35_0_62 := hGq Na35_0_61 hg62 HX60_11
          have RZ60_62 : Hid (RAt W62 g60 [x]) := Lib.hid hr62
          have HF_62 := fNq HF_61 hg62 HG60 HLO54
          have HL_62 := lG HL_61 hg62
          clear hr62 hg62 hz62 HL_61 RG_61 RX_61 RY_61 Na27_0_61 Na35_0_61 RZ60_61 HF_61
          refine doneW (by kernel_rfl) ⟨rfl, ?_⟩ _
          exact ⟨g60, RG_62.out, RX_62.out, RY_62.out, Na27_0_62.out, Na35_0_62.out, RZ60_62.out, HG60.out, HF_62.out, rfl⟩
      · refine wpOp_value (i := 19) (oi := oEC43) rfl (by rfl) (exec_alloc 23 rfl (.agg (zbs 32)) zero23 W55) ⟨fun _ => (below_alloc W55 _).mono HL_55.out, ?_⟩
        obtain ⟨W63, hW63, hb63, hz63⟩ := alloc_zero W55
        rw [← hW63]
        obtain ⟨g63, hg63⟩ : ∃ g, g = W55.heap.size := ⟨_, rfl⟩
        rw [← hg63] at hz63 ⊢
        have HG63 := gE hg63 HL_55
        have HX63_7 := nXq RG_55 hg63
        have HX63_8 := nXq RX_55 hg63
        have HX63_9 := nXq RY_55 hg63
        have HX63_10 := nXq Na27_0_55 hg63
        have HX63_11 := nXq Na35_0_55 hg63
        have RG_63 := hKq RG_55 hb63
        have RX_63 := hKq RX_55 hb63
        have RY_63 := hKq RY_55 hb63
        have Na27_0_63 := hKq Na27_0_55 hb63
        have Na35_0_63 := hKq Na35_0_55 hb63
        have HF_63 := fCq HF_55 hb63
        have HL_63 := lT HL_55 hb63
        have RZ63_63 := zrq hz63
        clear hb63 hz63 hg63 hW63 HL_55 RG_55 RX_55 RY_55 Na27_0_55 Na35_0_55 HF_55
        simp only [oEC43, Act.put, zA, zB, zC]
        refine callW (i := 17) (oi := oEC41) rfl (by kernel_rfl) (by rfl) (exec_callL 25 [.tmp 44, .tmp 48] #[23, 23] rfl [vN y1, vN x2] rfl (CG25 _)) ((C5.out W63).mono ?_)
        rintro e64 W64 ⟨rfl, hb64⟩
        refine ⟨_, rfl, fun _ => hb64.mono HL_63.out, ?_⟩
        have RG_64 := hKq RG_63 hb64
        have RX_64 := hKq RX_63 hb64
        have RY_64 := hKq RY_63 hb64
        have Na27_0_64 := hKq Na27_0_63 hb64
        have Na35_0_64 := hKq Na35_0_63 hb64
        have RZ63_64 := hKq RZ63_63 hb64
        have HF_64 := fCq HF_63 hb64
        have HL_64 := lT HL_63 hb64
        clear hb64 HL_63 RG_63 RX_63 RY_63 Na27_0_63 Na35_0_63 RZ63_63 HF_63
        simp only [oEC41, Act.put, zA, zB, zC]
        refine callW (i := 18) (oi := oEC42) rfl (by kernel_rfl) (by rfl) (exec_callL 19 [.tmp 40, .tmp 49] #[23, 23] rfl [vN a1, vN a2] rfl (CG19 _)) ((C6.out W64).mono ?_)
        rintro e65 W65 ⟨rfl, hb65⟩
        refine ⟨_, rfl, fun _ => hb65.mono HL_64.out, ?_⟩
        have RG_65 := hKq RG_64 hb65
        have RX_65 := hKq RX_64 hb65
        have RY_65 := hKq RY_64 hb65
        have Na27_0_65 := hKq Na27_0_64 hb65
        have Na35_0_65 := hKq Na35_0_64 hb65
        have RZ63_65 := hKq RZ63_64 hb65
        have HF_65 := fCq HF_64 hb65
        have HL_65 := lT HL_64 hb65
        clear hb65 HL_64 RG_64 RX_64 RY_64 Na27_0_64 Na35_0_64 RZ63_64 HF_64
        simp only [oEC42, Act.put, zA, zB, zC]
        refine storeW_F (i := 20) (oi := oEC44) rfl (by kernel_rfl) (by rfl) (.tmp 8) (.tmp 50) rfl (g63) 0 0 rfl [0] x rfl rfl RZ63_65.out (show 0 < 1 by omega) rfl ?_
        intro W66 hr66 hg66 hz66
        simp only [oEC44, Act.put, zA, zB, zC]
        have RG_66 := hGq RG_65 hg66 HX63_7
        have RX_66 := hGq RX_65 hg66 HX63_8
        have RY_66 := hGq RY_65 hg66 HX63_9
        have Na27_0_66 := hGq Na27_0_65 hg66 HX63_10
        have Na35_0_66 := hGq Na35_0_65 hg66 HX63_11
        have RZ63_66 : Hid (RAt W66 g63 [x]) := Lib.hid hr66
        have HF_66 := fNq HF_65 hg66 HG63 HLO54
        have HL_66 := lG HL_65 hg66
        clear hr66 hg66 hz66 HL_65 RG_65 RX_65 RY_65 Na27_0_65 Na35_0_65 RZ63_65 HF_65
        refine doneW (by kernel_rfl) ⟨rfl, ?_⟩ _
        exact ⟨g63, RG_66.out, RX_66.out, RY_66.out, Na27_0_66.out, Na35_0_66.out, RZ63_66.out, HG63.out, HF_66.out, rfl⟩
    · refine wpOp_value (i := 19) (oi := oEC43) rfl (by rfl) (exec_alloc 23 rfl (.agg (zbs 32)) zero23 D54) ⟨fun _ => (below_alloc D54 _).mono HL_54.out, ?_⟩
      obtain ⟨W67, hW67, hb67, hz67⟩ := alloc_zero D54
      rw [← hW67]
      obtain ⟨g67, hg67⟩ : ∃ g, g = D54.heap.size := ⟨_, rfl⟩
      rw [← hg67] at hz67 ⊢
      have HG67 := gE hg67 HL_54
      have HX67_7 := nXq RG_54 hg67
      have HX67_8 := nXq RX_54 hg67
      have HX67_9 := nXq RY_54 hg67
      have HX67_10 := nXq Na27_0_54 hg67
      have HX67_11 := nXq Na35_0_54 hg67
      have RG_67 := hKq RG_54 hb67
      have RX_67 := hKq RX_54 hb67
      have RY_67 := hKq RY_54 hb67
      have Na27_0_67 := hKq Na27_0_54 hb67
      have Na35_0_67 := hKq Na35_0_54 hb67
      have HF_67 := fCq HF_54 hb67
      have HL_67 := lT HL_54 hb67
      have RZ67_67 := zrq hz67
      clear hb67 hz67 hg67 hW67 HL_54 RG_54 RX_54 RY_54 Na27_0_54 Na35_0_54 HF_54
      simp only [oEC43, Act.put, zA, zB, zC]
      refine callW (i := 8) (oi := oEC40) rfl (by kernel_rfl) (by rfl) (exec_callL 25 [.tmp 35, .tmp 39] #[23, 23] rfl [vN x1, vN y2] rfl (CG25 _)) ((C4.out W67).mono ?_)
      rintro e68 W68 ⟨rfl, hb68⟩
      refine ⟨_, rfl, fun _ => hb68.mono HL_67.out, ?_⟩
      have RG_68 := hKq RG_67 hb68
      have RX_68 := hKq RX_67 hb68
      have RY_68 := hKq RY_67 hb68
      have Na27_0_68 := hKq Na27_0_67 hb68
      have Na35_0_68 := hKq Na35_0_67 hb68
      have RZ67_68 := hKq RZ67_67 hb68
      have HF_68 := fCq HF_67 hb68
      have HL_68 := lT HL_67 hb68
      clear hb68 HL_67 RG_67 RX_67 RY_67 Na27_0_67 Na35_0_67 RZ67_67 HF_67
      simp only [oEC40, Act.put, zA, zB, zC]
      refine callW (i := 17) (oi := oEC41) rfl (by kernel_rfl) (by rfl) (exec_callL 25 [.tmp 44, .tmp 48] #[23, 23] rfl [vN y1, vN x2] rfl (CG25 _)) ((C5.out W68).mono ?_)
      rintro e69 W69 ⟨rfl, hb69⟩
      refine ⟨_, rfl, fun _ => hb69.mono HL_68.out, ?_⟩
      have RG_69 := hKq RG_68 hb69
      have RX_69 := hKq RX_68 hb69
      have RY_69 := hKq RY_68 hb69
      have Na27_0_69 := hKq Na27_0_68 hb69
      have Na35_0_69 := hKq Na35_0_68 hb69
      have RZ67_69 := hKq RZ67_68 hb69
      have HF_69 := fCq HF_68 hb69
      have HL_69 := lT HL_68 hb69
      clear hb69 HL_68 RG_68 RX_68 RY_68 Na27_0_68 Na35_0_68 RZ67_68 HF_68
      simp only [oEC41, Act.put, zA, zB, zC]
      refine callW (i := 18) (oi := oEC42) rfl (by kernel_rfl) (by rfl) (exec_callL 19 [.tmp 40, .tmp 49] #[23, 23] rfl [vN a1, vN a2] rfl (CG19 _)) ((C6.out W69).mono ?_)
      rintro e70 W70 ⟨rfl, hb70⟩
      refine ⟨_, rfl, fun _ => hb70.mono HL_69.out, ?_⟩
      have RG_70 := hKq RG_69 hb70
      have RX_70 := hKq RX_69 hb70
      have RY_70 := hKq RY_69 hb70
      have Na27_0_70 := hKq Na27_0_69 hb70
      have Na35_0_70 := hKq Na35_0_69 hb70
      have RZ67_70 := hKq RZ67_69 hb70
      have HF_70 := fCq HF_69 hb70
      have HL_70 := lT HL_69 hb70
      clear hb70 HL_69 RG_69 RX_69 RY_69 Na27_0_69 Na35_0_69 RZ67_69 HF_69
      simp only [oEC42, Act.put, zA, zB, zC]
      refine storeW_F (i := 20) (oi := oEC44) rfl (by kernel_rfl) (by rfl) (.tmp 8) (.tmp 50) rfl (g67) 0 0 rfl [0] x rfl rfl RZ67_70.out (show 0 < 1 by omega) rfl ?_
      intro W71 hr71 hg71 hz71
      simp only [oEC44, Act.put, zA, zB, zC]
      have RG_71 := hGq RG_70 hg71 HX67_7
      have RX_71 := hGq RX_70 hg71 HX67_8
      have RY_71 := hGq RY_70 hg71 HX67_9
      have Na27_0_71 := hGq Na27_0_70 hg71 HX67_10
      have Na35_0_71 := hGq Na35_0_70 hg71 HX67_11
      have RZ67_71 : Hid (RAt W71 g67 [x]) := Lib.hid hr71
      have HF_71 := fNq HF_70 hg71 HG67 HLO54
      have HL_71 := lG HL_70 hg71
      clear hr71 hg71 hz71 HL_70 RG_70 RX_70 RY_70 Na27_0_70 Na35_0_70 RZ67_70 HF_70
      refine doneW (by kernel_rfl) ⟨rfl, ?_⟩ _
      exact ⟨g67, RG_71.out, RX_71.out, RY_71.out, Na27_0_71.out, Na35_0_71.out, RZ67_71.out, HG67.out, HF_71.out, rfl⟩
  rintro a' v72 ⟨a54_0, h0, h1, h2, h3, h4, h5, k0, hF, rfl⟩
  have RG_72 := Lib.hid h0
  have RX_72 := Lib.hid h1
  have RY_72 := Lib.hid h2
  have Na27_0_72 := Lib.hid h3
  have Na35_0_72 := Lib.hid h4
  have Na54_0_72 := Lib.hid h5
  have HNE72_7 : Hid (g ≠ a54_0) := Lib.hid (by have := HLT54_0.out; omega)
  have HNE72_8 : Hid (gp ≠ a54_0) := Lib.hid (by have := HLT54_1.out; omega)
  have HNE72_9 : Hid (gq ≠ a54_0) := Lib.hid (by have := HLT54_2.out; omega)
  have HNE72_10 : Hid (a27_0 ≠ a54_0) := Lib.hid (by have := HLT54_3.out; omega)
  have HNE72_11 : Hid (a35_0 ≠ a54_0) := Lib.hid (by have := HLT54_4.out; omega)
  have HGE72_0 : Hid (w.heap.size ≤ a54_0) := Lib.hid (by have := HLO54.out; omega)
  have HF_72 := Lib.hid hF
  clear h0 h1 h2 h3 h4 h5 k0 hF HLT54_0 HLT54_1 HLT54_2 HLT54_3 HLT54_4 HLO54 RG_53 RX_53 RY_53 Na27_0_53 Na35_0_53 HF_53
  go_wp2_with fail
  have HLT73_0 := lR RG_72
  have HLT73_1 := lR RX_72
  have HLT73_2 := lR RY_72
  have HLT73_3 := lR Na27_0_72
  have HLT73_4 := lR Na35_0_72
  have HLT73_5 := lR Na54_0_72
  have HLO73 : Hid (w.heap.size ≤ v72.heap.size) := Lib.hid HF_72.out.size
  refine region_split (fun a' W => ∃ a73_0, RAt W g [r0, r1, r2, r3] ∧ RAt W gp [x1, y1, z1, t1] ∧ RAt W gq [x2, y2, z2, t2] ∧ RAt W a27_0 [one] ∧ RAt W a35_0 [d] ∧ RAt W a54_0 [x] ∧ RAt W a73_0 [y] ∧ v72.heap.size ≤ a73_0 ∧ Keeps (· = g) w W ∧ a' = ⟨#[.pointer (some ⟨g, 0, none⟩), .pointer (some ⟨gp, 0, none⟩), .pointer (some ⟨gq, 0, none⟩), undef, undef, undef, .pointer (some ⟨a27_0, 0, none⟩), .pointer (some ⟨a35_0, 0, none⟩), .pointer (some ⟨a54_0, 0, none⟩), .pointer (some ⟨a73_0, 0, none⟩), undef, undef, .pointer (some ⟨gp, 0, none⟩), .pointer (some ⟨gp, 0, none⟩), .pointer (some ⟨gp, 64, none⟩), vN z1, .pointer (some ⟨gq, 0, none⟩), .pointer (some ⟨gq, 0, none⟩), .pointer (some ⟨gq, 64, none⟩), vN z2, vN one, vN dd, .pointer (some ⟨gp, 0, none⟩), .pointer (some ⟨gp, 0, none⟩), .pointer (some ⟨gp, 96, none⟩), vN t1, .pointer (some ⟨gq, 0, none⟩), .pointer (some ⟨gq, 0, none⟩), .pointer (some ⟨gq, 96, none⟩), vN t2, vN tt, vN d, .pointer (some ⟨gp, 0, none⟩), .pointer (some ⟨gp, 0, none⟩), .pointer (some ⟨gp, 0, none⟩), vN x1, .pointer (some ⟨gq, 0, none⟩), .pointer (some ⟨gq, 0, none⟩), .pointer (some ⟨gq, 32, none⟩), vN y2, vN a1, .pointer (some ⟨gp, 0, none⟩), .pointer (some ⟨gp, 0, none⟩), .pointer (some ⟨gp, 32, none⟩), vN y1, .pointer (some ⟨gq, 0, none⟩), .pointer (some ⟨gq, 0, none⟩), .pointer (some ⟨gq, 0, none⟩), vN x2, vN a2, vN x, .pointer (some ⟨gp, 0, none⟩), .pointer (some ⟨gp, 0, none⟩), .pointer (some ⟨gp, 32, none⟩), vN y1, .pointer (some ⟨gq, 0, none⟩), .pointer (some ⟨gq, 0, none⟩), .pointer (some ⟨gq, 32, none⟩), vN y2, vN b1, .pointer (some ⟨gp, 0, none⟩), .pointer (some ⟨gp, 0, none⟩), .pointer (some ⟨gp, 0, none⟩), vN x1, .pointer (some ⟨gq, 0, none⟩), .pointer (some ⟨gq, 0, none⟩), .pointer (some ⟨gq, 0, none⟩), vN x2, vN b2, vN y, undef, undef, undef, undef, undef, undef, undef, undef], []⟩) ?_ ?_
  · refine startW (fun j => j == 20) (v72.heap.size) (by kernel_rfl) ?_
    obtain ⟨D73, hD73⟩ : ∃ D, D = v72.drew := ⟨_, rfl⟩
    rw [← hD73]
    have HL_73 := dLq hD73
    have RG_73 := dRq hD73 RG_72
    have RX_73 := dRq hD73 RX_72
    have RY_73 := dRq hD73 RY_72
    have Na27_0_73 := dRq hD73 Na27_0_72
    have Na35_0_73 := dRq hD73 Na35_0_72
    have Na54_0_73 := dRq hD73 Na54_0_72
    have HF_73 := dFq hD73 HF_72
    clear hD73 RG_72 RX_72 RY_72 Na27_0_72 Na35_0_72 Na54_0_72 HF_72
    refine tA (i := 0) (oi := oEC45) ?_
    refine ⟨.pointer (some ⟨gp, 0, none⟩), fun w' => exec_move (.tmp 1) rfl _ rfl, ?_⟩
    simp only [oEC45, Act.put, zA, zB, zC]
    refine tA (i := 1) (oi := oEC46) ?_
    refine ⟨.pointer (some ⟨gp, 0, none⟩), fun w' => exec_nil (.tmp 51) rfl _ rfl, ?_⟩
    simp only [oEC46, Act.put, zA, zB, zC]
    refine tA (i := 2) (oi := oEC47) ?_
    refine ⟨.pointer (some ⟨gp, 32, none⟩), fun w' => exec_field 76 (.tmp 52) 1 rfl _ 32 rfl (fld76_1 _), ?_⟩
    simp only [oEC47, Act.put, zA, zB, zC]
    refine takeT (i := 3) (oi := oEC48) (vN y1) rfl (by kernel_rfl) (by kernel_rfl) (by kernel_rfl) (by kernel_rfl) (by kernel_rfl) (fun _ _ _ h => nomatch h.1) (by rfl) (fun w' hk => exec_loadF (.tmp 53) rfl (gp) 1 32 rfl [x1, y1, z1, t1] y1 rfl (RX_73.out.below hk HLT73_1.out) rfl) ?_
    simp only [oEC48, Act.put, zA, zB, zC]
    refine tA (i := 4) (oi := oEC49) ?_
    refine ⟨.pointer (some ⟨gq, 0, none⟩), fun w' => exec_move (.tmp 2) rfl _ rfl, ?_⟩
    simp only [oEC49, Act.put, zA, zB, zC]
    refine tA (i := 5) (oi := oEC50) ?_
    refine ⟨.pointer (some ⟨gq, 0, none⟩), fun w' => exec_nil (.tmp 55) rfl _ rfl, ?_⟩
    simp only [oEC50, Act.put, zA, zB, zC]
    refine tA (i := 6) (oi := oEC51) ?_
    refine ⟨.pointer (some ⟨gq, 32, none⟩), fun w' => exec_field 76 (.tmp 56) 1 rfl _ 32 rfl (fld76_1 _), ?_⟩
    simp only [oEC51, Act.put, zA, zB, zC]
    refine takeT (i := 7) (oi := oEC52) (vN y2) rfl (by kernel_rfl) (by kernel_rfl) (by kernel_rfl) (by kernel_rfl) (by kernel_rfl) (fun _ _ _ h => nomatch h.1) (by rfl) (fun w' hk => exec_loadF (.tmp 57) rfl (gq) 1 32 rfl [x2, y2, z2, t2] y2 rfl (RY_73.out.below hk HLT73_2.out) rfl) ?_
    simp only [oEC52, Act.put, zA, zB, zC]
    refine tA (i := 9) (oi := oEC53) ?_
    refine ⟨.pointer (some ⟨gp, 0, none⟩), fun w' => exec_move (.tmp 1) rfl _ rfl, ?_⟩
    simp only [oEC53, Act.put, zA, zB, zC]
    refine tA (i := 10) (oi := oEC54) ?_
    refine ⟨.pointer (some ⟨gp, 0, none⟩), fun w' => exec_nil (.tmp 60) rfl _ rfl, ?_⟩
    simp only [oEC54, Act.put, zA, zB, zC]
    refine tA (i := 11) (oi := oEC55) ?_
    refine ⟨.pointer (some ⟨gp, 0, none⟩), fun w' => exec_field 76 (.tmp 61) 0 rfl _ 0 rfl (fld76_0 _), ?_⟩
    simp only [oEC55, Act.put, zA, zB, zC]
    refine takeT (i := 12) (oi := oEC56) (vN x1) rfl (by kernel_rfl) (by kernel_rfl) (by kernel_rfl) (by kernel_rfl) (by kernel_rfl) (fun _ _ _ h => nomatch h.1) (by rfl) (fun w' hk => exec_loadF (.tmp 62) rfl (gp) 0 0 rfl [x1, y1, z1, t1] x1 rfl (RX_73.out.below hk HLT73_1.out) rfl) ?_
    simp only [oEC56, Act.put, zA, zB, zC]
    refine tA (i := 13) (oi := oEC57) ?_
    refine ⟨.pointer (some ⟨gq, 0, none⟩), fun w' => exec_move (.tmp 2) rfl _ rfl, ?_⟩
    simp only [oEC57, Act.put, zA, zB, zC]
    refine tA (i := 14) (oi := oEC58) ?_
    refine ⟨.pointer (some ⟨gq, 0, none⟩), fun w' => exec_nil (.tmp 64) rfl _ rfl, ?_⟩
    simp only [oEC58, Act.put, zA, zB, zC]
    refine tA (i := 15) (oi := oEC59) ?_
    refine ⟨.pointer (some ⟨gq, 0, none⟩), fun w' => exec_field 76 (.tmp 65) 0 rfl _ 0 rfl (fld76_0 _), ?_⟩
    simp only [oEC59, Act.put, zA, zB, zC]
    refine takeT (i := 16) (oi := oEC60) (vN x2) rfl (by kernel_rfl) (by kernel_rfl) (by kernel_rfl) (by kernel_rfl) (by kernel_rfl) (fun _ _ _ h => nomatch h.1) (by rfl) (fun w' hk => exec_loadF (.tmp 66) rfl (gq) 0 0 rfl [x2, y2, z2, t2] x2 rfl (RY_73.out.below hk HLT73_2.out) rfl) ?_
    simp only [oEC60, Act.put, zA, zB, zC]
    refine eachW [8, 19] (by kernel_rfl) (by simp) ?_
    intro k hk
    simp only [zM, zN, or_false] at hk
    rcases hk with rfl | rfl
    · refine wpOp_call (i := 8) (oi := oEC61) rfl (by rfl) (exec_callL 25 [.tmp 54, .tmp 58] #[23, 23] rfl [vN y1, vN y2] rfl (CG25 _)) ((C7.out D73).mono ?_)
      rintro e74 W74 ⟨rfl, hb74⟩
      refine ⟨_, rfl, fun _ => hb74.mono HL_73.out, ?_⟩
      have RG_74 := hKq RG_73 hb74
      have RX_74 := hKq RX_73 hb74
      have RY_74 := hKq RY_73 hb74
      have Na27_0_74 := hKq Na27_0_73 hb74
      have Na35_0_74 := hKq Na35_0_73 hb74
      have Na54_0_74 := hKq Na54_0_73 hb74
      have HF_74 := fCq HF_73 hb74
      have HL_74 := lT HL_73 hb74
      clear hb74 HL_73 RG_73 RX_73 RY_73 Na27_0_73 Na35_0_73 Na54_0_73 HF_73
      simp only [oEC61, Act.put, zA, zB, zC]
      refine eachW [17, 19] (by kernel_rfl) (by simp) ?_
      intro k hk
      simp only [zM, zN, or_false] at hk
      rcases hk with rfl | rfl
      · refine wpOp_call (i := 17) (oi := oEC62) rfl (by rfl) (exec_callL 25 [.tmp 63, .tmp 67] #[23, 23] rfl [vN x1, vN x2] rfl (CG25 _)) ((C8.out W74).mono ?_)
        rintro e75 W75 ⟨rfl, hb75⟩
        refine ⟨_, rfl, fun _ => hb75.mono HL_74.out, ?_⟩
        have RG_75 := hKq RG_74 hb75
        have RX_75 := hKq RX_74 hb75
        have RY_75 := hKq RY_74 hb75
        have Na27_0_75 := hKq Na27_0_74 hb75
        have Na35_0_75 := hKq Na35_0_74 hb75
        have Na54_0_75 := hKq Na54_0_74 hb75
        have HF_75 := fCq HF_74 hb75
        have HL_75 := lT HL_74 hb75
        clear hb75 HL_74 RG_74 RX_74 RY_74 Na27_0_74 Na35_0_74 Na54_0_74 HF_74
        simp only [oEC62, Act.put, zA, zB, zC]
        refine eachW [18, 19] (by kernel_rfl) (by simp) ?_
        intro k hk
        simp only [zM, zN, or_false] at hk
        rcases hk with rfl | rfl
        · refine wpOp_call (i := 18) (oi := oEC63) rfl (by rfl) (exec_callL 19 [.tmp 59, .tmp 68] #[23, 23] rfl [vN b1, vN b2] rfl (CG19 _)) ((C9.out W75).mono ?_)
          rintro e76 W76 ⟨rfl, hb76⟩
          refine ⟨_, rfl, fun _ => hb76.mono HL_75.out, ?_⟩
          have RG_76 := hKq RG_75 hb76
          have RX_76 := hKq RX_75 hb76
          have RY_76 := hKq RY_75 hb76
          have Na27_0_76 := hKq Na27_0_75 hb76
          have Na35_0_76 := hKq Na35_0_75 hb76
          have Na54_0_76 := hKq Na54_0_75 hb76
          have HF_76 := fCq HF_75 hb76
          have HL_76 := lT HL_75 hb76
          clear hb76 HL_75 RG_75 RX_75 RY_75 Na27_0_75 Na35_0_75 Na54_0_75 HF_75
          simp only [oEC63, Act.put, zA, zB, zC]
          refine opW _ _ (i := 19) (oi := oEC64) rfl (by kernel_rfl) (by rfl) (exec_alloc 23 rfl (.agg (zbs 32)) zero23 W76) (fun _ => (below_alloc W76 _).mono HL_76.out) ?_
          obtain ⟨W77, hW77, hb77, hz77⟩ := alloc_zero W76
          rw [← hW77]
          obtain ⟨g77, hg77⟩ : ∃ g, g = W76.heap.size := ⟨_, rfl⟩
          rw [← hg77] at hz77 ⊢
          have HG77 := gE hg77 HL_76
          have HX77_12 := nXq RG_76 hg77
          have HX77_13 := nXq RX_76 hg77
          have HX77_14 := nXq RY_76 hg77
          have HX77_15 := nXq Na27_0_76 hg77
          have HX77_16 := nXq Na35_0_76 hg77
          have HX77_17 := nXq Na54_0_76 hg77
          have RG_77 := hKq RG_76 hb77
          have RX_77 := hKq RX_76 hb77
          have RY_77 := hKq RY_76 hb77
          have Na27_0_77 := hKq Na27_0_76 hb77
          have Na35_0_77 := hKq Na35_0_76 hb77
          have Na54_0_77 := hKq Na54_0_76 hb77
          have HF_77 := fCq HF_76 hb77
          have HL_77 := lT HL_76 hb77
          have RZ77_77 := zrq hz77
          clear hb77 hz77 hg77 hW77 HL_76 RG_76 RX_76 RY_76 Na27_0_76 Na35_0_76 Na54_0_76 HF_76
          simp only [oEC64, Act.put, zA, zB, zC]
          refine storeW_F (i := 20) (oi := oEC65) rfl (by kernel_rfl) (by rfl) (.tmp 9) (.tmp 69) rfl (g77) 0 0 rfl [0] y rfl rfl RZ77_77.out (show 0 < 1 by omega) rfl ?_
          intro W78 hr78 hg78 hz78
          simp only [oEC65, Act.put, zA, zB, zC]
          have RG_78 := hGq RG_77 hg78 HX77_12
          have RX_78 := hGq RX_77 hg78 HX77_13
          have RY_78 := hGq RY_77 hg78 HX77_14
          have Na27_0_78 := hGq Na27_0_77 hg78 HX77_15
          have Na35_0_78 := hGq Na35_0_77 hg78 HX77_16
          have Na54_0_78 := hGq Na54_0_77 hg78 HX77_17
          have RZ77_78 : Hid (RAt W78 g77 [y]) := Lib.hid hr78
          have HF_78 := fNq HF_77 hg78 HG77 HLO73
          have HL_78 := lG HL_77 hg78
          clear hr78 hg78 hz78 HL_77 RG_77 RX_77 RY_77 Na27_0_77 Na35_0_77 Na54_0_77 RZ77_77 HF_77
          refine doneW (by kernel_rfl) ⟨rfl, ?_⟩ _
          exact ⟨g77, RG_78.out, RX_78.out, RY_78.out, Na27_0_78.out, Na35_0_78.out, Na54_0_78.out, RZ77_78.out, HG77.out, HF_78.out, rfl⟩
        · refine wpOp_value (i := 19) (oi := oEC64) rfl (by rfl) (exec_alloc 23 rfl (.agg (zbs 32)) zero23 W75) ⟨fun _ => (below_alloc W75 _).mono HL_75.out, ?_⟩
          obtain ⟨W79, hW79, hb79, hz79⟩ := alloc_zero W75
          rw [← hW79]
          obtain ⟨g79, hg79⟩ : ∃ g, g = W75.heap.size := ⟨_, rfl⟩
          rw [← hg79] at hz79 ⊢
          have HG79 := gE hg79 HL_75
          have HX79_12 := nXq RG_75 hg79
          have HX79_13 := nXq RX_75 hg79
          have HX79_14 := nXq RY_75 hg79
          have HX79_15 := nXq Na27_0_75 hg79
          have HX79_16 := nXq Na35_0_75 hg79
          have HX79_17 := nXq Na54_0_75 hg79
          have RG_79 := hKq RG_75 hb79
          have RX_79 := hKq RX_75 hb79
          have RY_79 := hKq RY_75 hb79
          have Na27_0_79 := hKq Na27_0_75 hb79
          have Na35_0_79 := hKq Na35_0_75 hb79
          have Na54_0_79 := hKq Na54_0_75 hb79
          have HF_79 := fCq HF_75 hb79
          have HL_79 := lT HL_75 hb79
          have RZ79_79 := zrq hz79
          clear hb79 hz79 hg79 hW79 HL_75 RG_75 RX_75 RY_75 Na27_0_75 Na35_0_75 Na54_0_75 HF_75
          simp only [oEC64, Act.put, zA, zB, zC]
          refine callW (i := 18) (oi := oEC63) rfl (by kernel_rfl) (by rfl) (exec_callL 19 [.tmp 59, .tmp 68] #[23, 23] rfl [vN b1, vN b2] rfl (CG19 _)) ((C9.out W79).mono ?_)
          rintro e80 W80 ⟨rfl, hb80⟩
          refine ⟨_, rfl, fun _ => hb80.mono HL_79.out, ?_⟩
          have RG_80 := hKq RG_79 hb80
          have RX_80 := hKq RX_79 hb80
          have RY_80 := hKq RY_79 hb80
          have Na27_0_80 := hKq Na27_0_79 hb80
          have Na35_0_80 := hKq Na35_0_79 hb80
          have Na54_0_80 := hKq Na54_0_79 hb80
          have RZ79_80 := hKq RZ79_79 hb80
          have HF_80 := fCq HF_79 hb80
          have HL_80 := lT HL_79 hb80
          clear hb80 HL_79 RG_79 RX_79 RY_79 Na27_0_79 Na35_0_79 Na54_0_79 RZ79_79 HF_79
          simp only [oEC63, Act.put, zA, zB, zC]
          refine storeW_F (i := 20) (oi := oEC65) rfl (by kernel_rfl) (by rfl) (.tmp 9) (.tmp 69) rfl (g79) 0 0 rfl [0] y rfl rfl RZ79_80.out (show 0 < 1 by omega) rfl ?_
          intro W81 hr81 hg81 hz81
          simp only [oEC65, Act.put, zA, zB, zC]
          have RG_81 := hGq RG_80 hg81 HX79_12
          have RX_81 := hGq RX_80 hg81 HX79_13
          have RY_81 := hGq RY_80 hg81 HX79_14
          have Na27_0_81 := hGq Na27_0_80 hg81 HX79_15
          have Na35_0_81 := hGq Na35_0_80 hg81 HX79_16
          have Na54_0_81 := hGq Na54_0_80 hg81 HX79_17
          have RZ79_81 : Hid (RAt W81 g79 [y]) := Lib.hid hr81
          have HF_81 := fNq HF_80 hg81 HG79 HLO73
          have HL_81 := lG HL_80 hg81
          clear hr81 hg81 hz81 HL_80 RG_80 RX_80 RY_80 Na27_0_80 Na35_0_80 Na54_0_80 RZ79_80 HF_80
          refine doneW (by kernel_rfl) ⟨rfl, ?_⟩ _
          exact ⟨g79, RG_81.out, RX_81.out, RY_81.out, Na27_0_81.out, Na35_0_81.out, Na54_0_81.out, RZ79_81.out, HG79.out, HF_81.out, rfl⟩
      · refine wpOp_value (i := 19) (oi := oEC64) rfl (by rfl) (exec_alloc 23 rfl (.agg (zbs 32)) zero23 W74) ⟨fun _ => (below_alloc W74 _).mono HL_74.out, ?_⟩
        obtain ⟨W82, hW82, hb82, hz82⟩ := alloc_zero W74
        rw [← hW82]
        obtain ⟨g82, hg82⟩ : ∃ g, g = W74.heap.size := ⟨_, rfl⟩
        rw [← hg82] at hz82 ⊢
        have HG82 := gE hg82 HL_74
        have HX82_12 := nXq RG_74 hg82
        have HX82_13 := nXq RX_74 hg82
        have HX82_14 := nXq RY_74 hg82
        have HX82_15 := nXq Na27_0_74 hg82
        have HX82_16 := nXq Na35_0_74 hg82
        have HX82_17 := nXq Na54_0_74 hg82
        have RG_82 := hKq RG_74 hb82
        have RX_82 := hKq RX_74 hb82
        have RY_82 := hKq RY_74 hb82
        have Na27_0_82 := hKq Na27_0_74 hb82
        have Na35_0_82 := hKq Na35_0_74 hb82
        have Na54_0_82 := hKq Na54_0_74 hb82
        have HF_82 := fCq HF_74 hb82
        have HL_82 := lT HL_74 hb82
        have RZ82_82 := zrq hz82
        clear hb82 hz82 hg82 hW82 HL_74 RG_74 RX_74 RY_74 Na27_0_74 Na35_0_74 Na54_0_74 HF_74
        simp only [oEC64, Act.put, zA, zB, zC]
        refine callW (i := 17) (oi := oEC62) rfl (by kernel_rfl) (by rfl) (exec_callL 25 [.tmp 63, .tmp 67] #[23, 23] rfl [vN x1, vN x2] rfl (CG25 _)) ((C8.out W82).mono ?_)
        rintro e83 W83 ⟨rfl, hb83⟩
        refine ⟨_, rfl, fun _ => hb83.mono HL_82.out, ?_⟩
        have RG_83 := hKq RG_82 hb83
        have RX_83 := hKq RX_82 hb83
        have RY_83 := hKq RY_82 hb83
        have Na27_0_83 := hKq Na27_0_82 hb83
        have Na35_0_83 := hKq Na35_0_82 hb83
        have Na54_0_83 := hKq Na54_0_82 hb83
        have RZ82_83 := hKq RZ82_82 hb83
        have HF_83 := fCq HF_82 hb83
        have HL_83 := lT HL_82 hb83
        clear hb83 HL_82 RG_82 RX_82 RY_82 Na27_0_82 Na35_0_82 Na54_0_82 RZ82_82 HF_82
        simp only [oEC62, Act.put, zA, zB, zC]
        refine callW (i := 18) (oi := oEC63) rfl (by kernel_rfl) (by rfl) (exec_callL 19 [.tmp 59, .tmp 68] #[23, 23] rfl [vN b1, vN b2] rfl (CG19 _)) ((C9.out W83).mono ?_)
        rintro e84 W84 ⟨rfl, hb84⟩
        refine ⟨_, rfl, fun _ => hb84.mono HL_83.out, ?_⟩
        have RG_84 := hKq RG_83 hb84
        have RX_84 := hKq RX_83 hb84
        have RY_84 := hKq RY_83 hb84
        have Na27_0_84 := hKq Na27_0_83 hb84
        have Na35_0_84 := hKq Na35_0_83 hb84
        have Na54_0_84 := hKq Na54_0_83 hb84
        have RZ82_84 := hKq RZ82_83 hb84
        have HF_84 := fCq HF_83 hb84
        have HL_84 := lT HL_83 hb84
        clear hb84 HL_83 RG_83 RX_83 RY_83 Na27_0_83 Na35_0_83 Na54_0_83 RZ82_83 HF_83
        simp only [oEC63, Act.put, zA, zB, zC]
        refine storeW_F (i := 20) (oi := oEC65) rfl (by kernel_rfl) (by rfl) (.tmp 9) (.tmp 69) rfl (g82) 0 0 rfl [0] y rfl rfl RZ82_84.out (show 0 < 1 by omega) rfl ?_
        intro W85 hr85 hg85 hz85
        simp only [oEC65, Act.put, zA, zB, zC]
        have RG_85 := hGq RG_84 hg85 HX82_12
        have RX_85 := hGq RX_84 hg85 HX82_13
        have RY_85 := hGq RY_84 hg85 HX82_14
        have Na27_0_85 := hGq Na27_0_84 hg85 HX82_15
        have Na35_0_85 := hGq Na35_0_84 hg85 HX82_16
        have Na54_0_85 := hGq Na54_0_84 hg85 HX82_17
        have RZ82_85 : Hid (RAt W85 g82 [y]) := Lib.hid hr85
        have HF_85 := fNq HF_84 hg85 HG82 HLO73
        have HL_85 := lG HL_84 hg85
        clear hr85 hg85 hz85 HL_84 RG_84 RX_84 RY_84 Na27_0_84 Na35_0_84 Na54_0_84 RZ82_84 HF_84
        refine doneW (by kernel_rfl) ⟨rfl, ?_⟩ _
        exact ⟨g82, RG_85.out, RX_85.out, RY_85.out, Na27_0_85.out, Na35_0_85.out, Na54_0_85.out, RZ82_85.out, HG82.out, HF_85.out, rfl⟩
    · refine wpOp_value (i := 19) (oi := oEC64) rfl (by rfl) (exec_alloc 23 rfl (.agg (zbs 32)) zero23 D73) ⟨fun _ => (below_alloc D73 _).mono HL_73.out, ?_⟩
      obtain ⟨W86, hW86, hb86, hz86⟩ := alloc_zero D73
      rw [← hW86]
      obtain ⟨g86, hg86⟩ : ∃ g, g = D73.heap.size := ⟨_, rfl⟩
      rw [← hg86] at hz86 ⊢
      have HG86 := gE hg86 HL_73
      have HX86_12 := nXq RG_73 hg86
      have HX86_13 := nXq RX_73 hg86
      have HX86_14 := nXq RY_73 hg86
      have HX86_15 := nXq Na27_0_73 hg86
      have HX86_16 := nXq Na35_0_73 hg86
      have HX86_17 := nXq Na54_0_73 hg86
      have RG_86 := hKq RG_73 hb86
      have RX_86 := hKq RX_73 hb86
      have RY_86 := hKq RY_73 hb86
      have Na27_0_86 := hKq Na27_0_73 hb86
      have Na35_0_86 := hKq Na35_0_73 hb86
      have Na54_0_86 := hKq Na54_0_73 hb86
      have HF_86 := fCq HF_73 hb86
      have HL_86 := lT HL_73 hb86
      have RZ86_86 := zrq hz86
      clear hb86 hz86 hg86 hW86 HL_73 RG_73 RX_73 RY_73 Na27_0_73 Na35_0_73 Na54_0_73 HF_73
      simp only [oEC64, Act.put, zA, zB, zC]
      refine callW (i := 8) (oi := oEC61) rfl (by kernel_rfl) (by rfl) (exec_callL 25 [.tmp 54, .tmp 58] #[23, 23] rfl [vN y1, vN y2] rfl (CG25 _)) ((C7.out W86).mono ?_)
      rintro e87 W87 ⟨rfl, hb87⟩
      refine ⟨_, rfl, fun _ => hb87.mono HL_86.out, ?_⟩
      have RG_87 := hKq RG_86 hb87
      have RX_87 := hKq RX_86 hb87
      have RY_87 := hKq RY_86 hb87
      have Na27_0_87 := hKq Na27_0_86 hb87
      have Na35_0_87 := hKq Na35_0_86 hb87
      have Na54_0_87 := hKq Na54_0_86 hb87
      have RZ86_87 := hKq RZ86_86 hb87
      have HF_87 := fCq HF_86 hb87
      have HL_87 := lT HL_86 hb87
      clear hb87 HL_86 RG_86 RX_86 RY_86 Na27_0_86 Na35_0_86 Na54_0_86 RZ86_86 HF_86
      simp only [oEC61, Act.put, zA, zB, zC]
      refine callW (i := 17) (oi := oEC62) rfl (by kernel_rfl) (by rfl) (exec_callL 25 [.tmp 63, .tmp 67] #[23, 23] rfl [vN x1, vN x2] rfl (CG25 _)) ((C8.out W87).mono ?_)
      rintro e88 W88 ⟨rfl, hb88⟩
      refine ⟨_, rfl, fun _ => hb88.mono HL_87.out, ?_⟩
      have RG_88 := hKq RG_87 hb88
      have RX_88 := hKq RX_87 hb88
      have RY_88 := hKq RY_87 hb88
      have Na27_0_88 := hKq Na27_0_87 hb88
      have Na35_0_88 := hKq Na35_0_87 hb88
      have Na54_0_88 := hKq Na54_0_87 hb88
      have RZ86_88 := hKq RZ86_87 hb88
      have HF_88 := fCq HF_87 hb88
      have HL_88 := lT HL_87 hb88
      clear hb88 HL_87 RG_87 RX_87 RY_87 Na27_0_87 Na35_0_87 Na54_0_87 RZ86_87 HF_87
      simp only [oEC62, Act.put, zA, zB, zC]
      refine callW (i := 18) (oi := oEC63) rfl (by kernel_rfl) (by rfl) (exec_callL 19 [.tmp 59, .tmp 68] #[23, 23] rfl [vN b1, vN b2] rfl (CG19 _)) ((C9.out W88).mono ?_)
      rintro e89 W89 ⟨rfl, hb89⟩
      refine ⟨_, rfl, fun _ => hb89.mono HL_88.out, ?_⟩
      have RG_89 := hKq RG_88 hb89
      have RX_89 := hKq RX_88 hb89
      have RY_89 := hKq RY_88 hb89
      have Na27_0_89 := hKq Na27_0_88 hb89
      have Na35_0_89 := hKq Na35_0_88 hb89
      have Na54_0_89 := hKq Na54_0_88 hb89
      have RZ86_89 := hKq RZ86_88 hb89
      have HF_89 := fCq HF_88 hb89
      have HL_89 := lT HL_88 hb89
      clear hb89 HL_88 RG_88 RX_88 RY_88 Na27_0_88 Na35_0_88 Na54_0_88 RZ86_88 HF_88
      simp only [oEC63, Act.put, zA, zB, zC]
      refine storeW_F (i := 20) (oi := oEC65) rfl (by kernel_rfl) (by rfl) (.tmp 9) (.tmp 69) rfl (g86) 0 0 rfl [0] y rfl rfl RZ86_89.out (show 0 < 1 by omega) rfl ?_
      intro W90 hr90 hg90 hz90
      simp only [oEC65, Act.put, zA, zB, zC]
      have RG_90 := hGq RG_89 hg90 HX86_12
      have RX_90 := hGq RX_89 hg90 HX86_13
      have RY_90 := hGq RY_89 hg90 HX86_14
      have Na27_0_90 := hGq Na27_0_89 hg90 HX86_15
      have Na35_0_90 := hGq Na35_0_89 hg90 HX86_16
      have Na54_0_90 := hGq Na54_0_89 hg90 HX86_17
      have RZ86_90 : Hid (RAt W90 g86 [y]) := Lib.hid hr90
      have HF_90 := fNq HF_89 hg90 HG86 HLO73
      have HL_90 := lG HL_89 hg90
      clear hr90 hg90 hz90 HL_89 RG_89 RX_89 RY_89 Na27_0_89 Na35_0_89 Na54_0_89 RZ86_89 HF_89
      refine doneW (by kernel_rfl) ⟨rfl, ?_⟩ _
      exact ⟨g86, RG_90.out, RX_90.out, RY_90.out, Na27_0_90.out, Na35_0_90.out, Na54_0_90.out, RZ86_90.out, HG86.out, HF_90.out, rfl⟩
  rintro a' v91 ⟨a73_0, h0, h1, h2, h3, h4, h5, h6, k0, hF, rfl⟩
  have RG_91 := Lib.hid h0
  have RX_91 := Lib.hid h1
  have RY_91 := Lib.hid h2
  have Na27_0_91 := Lib.hid h3
  have Na35_0_91 := Lib.hid h4
  have Na54_0_91 := Lib.hid h5
  have Na73_0_91 := Lib.hid h6
  have HNE91_12 : Hid (g ≠ a73_0) := Lib.hid (by have := HLT73_0.out; omega)
  have HNE91_13 : Hid (gp ≠ a73_0) := Lib.hid (by have := HLT73_1.out; omega)
  have HNE91_14 : Hid (gq ≠ a73_0) := Lib.hid (by have := HLT73_2.out; omega)
  have HNE91_15 : Hid (a27_0 ≠ a73_0) := Lib.hid (by have := HLT73_3.out; omega)
  have HNE91_16 : Hid (a35_0 ≠ a73_0) := Lib.hid (by have := HLT73_4.out; omega)
  have HNE91_17 : Hid (a54_0 ≠ a73_0) := Lib.hid (by have := HLT73_5.out; omega)
  have HGE91_0 : Hid (w.heap.size ≤ a73_0) := Lib.hid (by have := HLO73.out; omega)
  have HF_91 := Lib.hid hF
  clear h0 h1 h2 h3 h4 h5 h6 k0 hF HLT73_0 HLT73_1 HLT73_2 HLT73_3 HLT73_4 HLT73_5 HLO73 RG_72 RX_72 RY_72 Na27_0_72 Na35_0_72 Na54_0_72 HF_72
  go_wp2_with fail
  have HLT92_0 := lR RG_91
  have HLT92_1 := lR RX_91
  have HLT92_2 := lR RY_91
  have HLT92_3 := lR Na27_0_91
  have HLT92_4 := lR Na35_0_91
  have HLT92_5 := lR Na54_0_91
  have HLT92_6 := lR Na73_0_91
  have HLO92 : Hid (w.heap.size ≤ v91.heap.size) := Lib.hid HF_91.out.size
  refine region_split (fun a' W => ∃ a92_0 a92_1, RAt W g [r0, r1, r2, r3] ∧ RAt W gp [x1, y1, z1, t1] ∧ RAt W gq [x2, y2, z2, t2] ∧ RAt W a27_0 [one] ∧ RAt W a35_0 [d] ∧ RAt W a54_0 [x] ∧ RAt W a73_0 [y] ∧ RAt W a92_0 [ox] ∧ RAt W a92_1 [oy] ∧ v91.heap.size ≤ a92_0 ∧ v91.heap.size ≤ a92_1 ∧ a92_1 ≠ a92_0 ∧ Keeps (· = g) w W ∧ a' = ⟨#[.pointer (some ⟨g, 0, none⟩), .pointer (some ⟨gp, 0, none⟩), .pointer (some ⟨gq, 0, none⟩), undef, undef, undef, .pointer (some ⟨a27_0, 0, none⟩), .pointer (some ⟨a35_0, 0, none⟩), .pointer (some ⟨a54_0, 0, none⟩), .pointer (some ⟨a73_0, 0, none⟩), .pointer (some ⟨a92_0, 0, none⟩), .pointer (some ⟨a92_1, 0, none⟩), .pointer (some ⟨gp, 0, none⟩), .pointer (some ⟨gp, 0, none⟩), .pointer (some ⟨gp, 64, none⟩), vN z1, .pointer (some ⟨gq, 0, none⟩), .pointer (some ⟨gq, 0, none⟩), .pointer (some ⟨gq, 64, none⟩), vN z2, vN one, vN dd, .pointer (some ⟨gp, 0, none⟩), .pointer (some ⟨gp, 0, none⟩), .pointer (some ⟨gp, 96, none⟩), vN t1, .pointer (some ⟨gq, 0, none⟩), .pointer (some ⟨gq, 0, none⟩), .pointer (some ⟨gq, 96, none⟩), vN t2, vN tt, vN d, .pointer (some ⟨gp, 0, none⟩), .pointer (some ⟨gp, 0, none⟩), .pointer (some ⟨gp, 0, none⟩), vN x1, .pointer (some ⟨gq, 0, none⟩), .pointer (some ⟨gq, 0, none⟩), .pointer (some ⟨gq, 32, none⟩), vN y2, vN a1, .pointer (some ⟨gp, 0, none⟩), .pointer (some ⟨gp, 0, none⟩), .pointer (some ⟨gp, 32, none⟩), vN y1, .pointer (some ⟨gq, 0, none⟩), .pointer (some ⟨gq, 0, none⟩), .pointer (some ⟨gq, 0, none⟩), vN x2, vN a2, vN x, .pointer (some ⟨gp, 0, none⟩), .pointer (some ⟨gp, 0, none⟩), .pointer (some ⟨gp, 32, none⟩), vN y1, .pointer (some ⟨gq, 0, none⟩), .pointer (some ⟨gq, 0, none⟩), .pointer (some ⟨gq, 32, none⟩), vN y2, vN b1, .pointer (some ⟨gp, 0, none⟩), .pointer (some ⟨gp, 0, none⟩), .pointer (some ⟨gp, 0, none⟩), vN x1, .pointer (some ⟨gq, 0, none⟩), .pointer (some ⟨gq, 0, none⟩), .pointer (some ⟨gq, 0, none⟩), vN x2, vN b2, vN y, vN one, vN d, vN ox, vN one, vN d, vN oy, undef, undef], []⟩) ?_ ?_
  · refine startW (fun j => j == 8 || j == 9) (v91.heap.size) (by kernel_rfl) ?_
    obtain ⟨D92, hD92⟩ : ∃ D, D = v91.drew := ⟨_, rfl⟩
    rw [← hD92]
    have HL_92 := dLq hD92
    have RG_92 := dRq hD92 RG_91
    have RX_92 := dRq hD92 RX_91
    have RY_92 := dRq hD92 RY_91
    have Na27_0_92 := dRq hD92 Na27_0_91
    have Na35_0_92 := dRq hD92 Na35_0_91
    have Na54_0_92 := dRq hD92 Na54_0_91
    have Na73_0_92 := dRq hD92 Na73_0_91
    have HF_92 := dFq hD92 HF_91
    clear hD92 RG_91 RX_91 RY_91 Na27_0_91 Na35_0_91 Na54_0_91 Na73_0_91 HF_91
    refine takeT (i := 0) (oi := oEC66) (vN one) rfl (by kernel_rfl) (by kernel_rfl) (by kernel_rfl) (by kernel_rfl) (by kernel_rfl) (fun _ _ _ h => nomatch h.1) (by rfl) (fun w' hk => exec_loadF (.tmp 6) rfl (a27_0) 0 0 rfl [one] one rfl (Na27_0_92.out.below hk HLT92_3.out) rfl) ?_
    simp only [oEC66, Act.put, zA, zB, zC]
    refine takeT (i := 1) (oi := oEC67) (vN d) rfl (by kernel_rfl) (by kernel_rfl) (by kernel_rfl) (by kernel_rfl) (by kernel_rfl) (fun _ _ _ h => nomatch h.1) (by rfl) (fun w' hk => exec_loadF (.tmp 7) rfl (a35_0) 0 0 rfl [d] d rfl (Na35_0_92.out.below hk HLT92_4.out) rfl) ?_
    simp only [oEC67, Act.put, zA, zB, zC]
    refine takeT (i := 3) (oi := oEC68) (vN one) rfl (by kernel_rfl) (by kernel_rfl) (by kernel_rfl) (by kernel_rfl) (by kernel_rfl) (fun _ _ _ h => nomatch h.1) (by rfl) (fun w' hk => exec_loadF (.tmp 6) rfl (a27_0) 0 0 rfl [one] one rfl (Na27_0_92.out.below hk HLT92_3.out) rfl) ?_
    simp only [oEC68, Act.put, zA, zB, zC]
    refine takeT (i := 4) (oi := oEC69) (vN d) rfl (by kernel_rfl) (by kernel_rfl) (by kernel_rfl) (by kernel_rfl) (by kernel_rfl) (fun _ _ _ h => nomatch h.1) (by rfl) (fun w' hk => exec_loadF (.tmp 7) rfl (a35_0) 0 0 rfl [d] d rfl (Na35_0_92.out.below hk HLT92_4.out) rfl) ?_
    simp only [oEC69, Act.put, zA, zB, zC]
    refine eachW [2, 6, 7] (by kernel_rfl) (by simp) ?_
    intro k hk
    simp only [zM, zN, or_false] at hk
    rcases hk with rfl | rfl | rfl
    · refine wpOp_call (i := 2) (oi := oEC70) rfl (by rfl) (exec_callL 19 [.tmp 70, .tmp 71] #[23, 23] rfl [vN one, vN d] rfl (CG19 _)) ((C10.out D92).mono ?_)
      rintro e93 W93 ⟨rfl, hb93⟩
      refine ⟨_, rfl, fun _ => hb93.mono HL_92.out, ?_⟩
      have RG_93 := hKq RG_92 hb93
      have RX_93 := hKq RX_92 hb93
      have RY_93 := hKq RY_92 hb93
      have Na27_0_93 := hKq Na27_0_92 hb93
      have Na35_0_93 := hKq Na35_0_92 hb93
      have Na54_0_93 := hKq Na54_0_92 hb93
      have Na73_0_93 := hKq Na73_0_92 hb93
      have HF_93 := fCq HF_92 hb93
      have HL_93 := lT HL_92 hb93
      clear hb93 HL_92 RG_92 RX_92 RY_92 Na27_0_92 Na35_0_92 Na54_0_92 Na73_0_92 HF_92
      simp only [oEC70, Act.put, zA, zB, zC]
      refine eachW [5, 6, 7] (by kernel_rfl) (by simp) ?_
      intro k hk
      simp only [zM, zN, or_false] at hk
      rcases hk with rfl | rfl | rfl
      · refine wpOp_call (i := 5) (oi := oEC71) rfl (by rfl) (exec_callL 21 [.tmp 73, .tmp 74] #[23, 23] rfl [vN one, vN d] rfl (CG21 _)) ((C11.out W93).mono ?_)
        rintro e94 W94 ⟨rfl, hb94⟩
        refine ⟨_, rfl, fun _ => hb94.mono HL_93.out, ?_⟩
        have RG_94 := hKq RG_93 hb94
        have RX_94 := hKq RX_93 hb94
        have RY_94 := hKq RY_93 hb94
        have Na27_0_94 := hKq Na27_0_93 hb94
        have Na35_0_94 := hKq Na35_0_93 hb94
        have Na54_0_94 := hKq Na54_0_93 hb94
        have Na73_0_94 := hKq Na73_0_93 hb94
        have HF_94 := fCq HF_93 hb94
        have HL_94 := lT HL_93 hb94
        clear hb94 HL_93 RG_93 RX_93 RY_93 Na27_0_93 Na35_0_93 Na54_0_93 Na73_0_93 HF_93
        simp only [oEC71, Act.put, zA, zB, zC]
        refine eachW [6, 7] (by kernel_rfl) (by simp) ?_
        intro k hk
        simp only [zM, zN, or_false] at hk
        rcases hk with rfl | rfl
        · refine wpOp_value (i := 6) (oi := oEC72) rfl (by rfl) (exec_alloc 23 rfl (.agg (zbs 32)) zero23 W94) ⟨fun _ => (below_alloc W94 _).mono HL_94.out, ?_⟩
          obtain ⟨W95, hW95, hb95, hz95⟩ := alloc_zero W94
          rw [← hW95]
          obtain ⟨g95, hg95⟩ : ∃ g, g = W94.heap.size := ⟨_, rfl⟩
          rw [← hg95] at hz95 ⊢
          have HG95 := gE hg95 HL_94
          have HX95_18 := nXq RG_94 hg95
          have HX95_19 := nXq RX_94 hg95
          have HX95_20 := nXq RY_94 hg95
          have HX95_21 := nXq Na27_0_94 hg95
          have HX95_22 := nXq Na35_0_94 hg95
          have HX95_23 := nXq Na54_0_94 hg95
          have HX95_24 := nXq Na73_0_94 hg95
          have RG_95 := hKq RG_94 hb95
          have RX_95 := hKq RX_94 hb95
          have RY_95 := hKq RY_94 hb95
          have Na27_0_95 := hKq Na27_0_94 hb95
          have Na35_0_95 := hKq Na35_0_94 hb95
          have Na54_0_95 := hKq Na54_0_94 hb95
          have Na73_0_95 := hKq Na73_0_94 hb95
          have HF_95 := fCq HF_94 hb95
          have HL_95 := lT HL_94 hb95
          have RZ95_95 := zrq hz95
          clear hb95 hz95 hg95 hW95 HL_94 RG_94 RX_94 RY_94 Na27_0_94 Na35_0_94 Na54_0_94 Na73_0_94 HF_94
          simp only [oEC72, Act.put, zA, zB, zC]
          refine opW _ _ (i := 7) (oi := oEC73) rfl (by kernel_rfl) (by rfl) (exec_alloc 23 rfl (.agg (zbs 32)) zero23 W95) (fun _ => (below_alloc W95 _).mono HL_95.out) ?_
          obtain ⟨W96, hW96, hb96, hz96⟩ := alloc_zero W95
          rw [← hW96]
          obtain ⟨g96, hg96⟩ : ∃ g, g = W95.heap.size := ⟨_, rfl⟩
          rw [← hg96] at hz96 ⊢
          have HG96 := gE hg96 HL_95
          have HX96_25 := nXq RG_95 hg96
          have HX96_26 := nXq RX_95 hg96
          have HX96_27 := nXq RY_95 hg96
          have HX96_28 := nXq Na27_0_95 hg96
          have HX96_29 := nXq Na35_0_95 hg96
          have HX96_30 := nXq Na54_0_95 hg96
          have HX96_31 := nXq Na73_0_95 hg96
          have HX96_32 := nXq RZ95_95 hg96
          have RG_96 := hKq RG_95 hb96
          have RX_96 := hKq RX_95 hb96
          have RY_96 := hKq RY_95 hb96
          have Na27_0_96 := hKq Na27_0_95 hb96
          have Na35_0_96 := hKq Na35_0_95 hb96
          have Na54_0_96 := hKq Na54_0_95 hb96
          have Na73_0_96 := hKq Na73_0_95 hb96
          have RZ95_96 := hKq RZ95_95 hb96
          have HF_96 := fCq HF_95 hb96
          have HL_96 := lT HL_95 hb96
          have RZ96_96 := zrq hz96
          clear hb96 hz96 hg96 hW96 HL_95 RG_95 RX_95 RY_95 Na27_0_95 Na35_0_95 Na54_0_95 Na73_0_95 RZ95_95 HF_95
          simp only [oEC73, Act.put, zA, zB, zC]
          refine storeW_F (i := 8) (oi := oEC74) rfl (by kernel_rfl) (by rfl) (.tmp 10) (.tmp 72) rfl (g95) 0 0 rfl [0] ox rfl rfl RZ95_96.out (show 0 < 1 by omega) rfl ?_
          intro W97 hr97 hg97 hz97
          simp only [oEC74, Act.put, zA, zB, zC]
          have RG_97 := hGq RG_96 hg97 HX95_18
          have RX_97 := hGq RX_96 hg97 HX95_19
          have RY_97 := hGq RY_96 hg97 HX95_20
          have Na27_0_97 := hGq Na27_0_96 hg97 HX95_21
          have Na35_0_97 := hGq Na35_0_96 hg97 HX95_22
          have Na54_0_97 := hGq Na54_0_96 hg97 HX95_23
          have Na73_0_97 := hGq Na73_0_96 hg97 HX95_24
          have RZ95_97 : Hid (RAt W97 g95 [ox]) := Lib.hid hr97
          have RZ96_97 := hGq RZ96_96 hg97 HX96_32
          have HF_97 := fNq HF_96 hg97 HG95 HLO92
          have HL_97 := lG HL_96 hg97
          clear hr97 hg97 hz97 HL_96 RG_96 RX_96 RY_96 Na27_0_96 Na35_0_96 Na54_0_96 Na73_0_96 RZ95_96 RZ96_96 HF_96
          refine storeW_F (i := 9) (oi := oEC75) rfl (by kernel_rfl) (by rfl) (.tmp 11) (.tmp 75) rfl (g96) 0 0 rfl [0] oy rfl rfl RZ96_97.out (show 0 < 1 by omega) rfl ?_
          intro W98 hr98 hg98 hz98
          simp only [oEC75, Act.put, zA, zB, zC]
          have RG_98 := hGq RG_97 hg98 HX96_25
          have RX_98 := hGq RX_97 hg98 HX96_26
          have RY_98 := hGq RY_97 hg98 HX96_27
          have Na27_0_98 := hGq Na27_0_97 hg98 HX96_28
          have Na35_0_98 := hGq Na35_0_97 hg98 HX96_29
          have Na54_0_98 := hGq Na54_0_97 hg98 HX96_30
          have Na73_0_98 := hGq Na73_0_97 hg98 HX96_31
          have RZ95_98 := hGq RZ95_97 hg98 HX96_32
          have RZ96_98 : Hid (RAt W98 g96 [oy]) := Lib.hid hr98
          have HF_98 := fNq HF_97 hg98 HG96 HLO92
          have HL_98 := lG HL_97 hg98
          clear hr98 hg98 hz98 HL_97 RG_97 RX_97 RY_97 Na27_0_97 Na35_0_97 Na54_0_97 Na73_0_97 RZ95_97 RZ96_97 HF_97
          refine doneW (by kernel_rfl) ⟨rfl, ?_⟩ _
          exact ⟨g95, g96, RG_98.out, RX_98.out, RY_98.out, Na27_0_98.out, Na35_0_98.out, Na54_0_98.out, Na73_0_98.out, RZ95_98.out, RZ96_98.out, HG95.out, HG96.out, (by have := HX96_32.out; omega), HF_98.out, rfl⟩
        · refine wpOp_value (i := 7) (oi := oEC73) rfl (by rfl) (exec_alloc 23 rfl (.agg (zbs 32)) zero23 W94) ⟨fun _ => (below_alloc W94 _).mono HL_94.out, ?_⟩
          obtain ⟨W99, hW99, hb99, hz99⟩ := alloc_zero W94
          rw [← hW99]
          obtain ⟨g99, hg99⟩ : ∃ g, g = W94.heap.size := ⟨_, rfl⟩
          rw [← hg99] at hz99 ⊢
          have HG99 := gE hg99 HL_94
          have HX99_18 := nXq RG_94 hg99
          have HX99_19 := nXq RX_94 hg99
          have HX99_20 := nXq RY_94 hg99
          have HX99_21 := nXq Na27_0_94 hg99
          have HX99_22 := nXq Na35_0_94 hg99
          have HX99_23 := nXq Na54_0_94 hg99
          have HX99_24 := nXq Na73_0_94 hg99
          have RG_99 := hKq RG_94 hb99
          have RX_99 := hKq RX_94 hb99
          have RY_99 := hKq RY_94 hb99
          have Na27_0_99 := hKq Na27_0_94 hb99
          have Na35_0_99 := hKq Na35_0_94 hb99
          have Na54_0_99 := hKq Na54_0_94 hb99
          have Na73_0_99 := hKq Na73_0_94 hb99
          have HF_99 := fCq HF_94 hb99
          have HL_99 := lT HL_94 hb99
          have RZ99_99 := zrq hz99
          clear hb99 hz99 hg99 hW99 HL_94 RG_94 RX_94 RY_94 Na27_0_94 Na35_0_94 Na54_0_94 Na73_0_94 HF_94
          simp only [oEC73, Act.put, zA, zB, zC]
          refine opW _ _ (i := 6) (oi := oEC72) rfl (by kernel_rfl) (by rfl) (exec_alloc 23 rfl (.agg (zbs 32)) zero23 W99) (fun _ => (below_alloc W99 _).mono HL_99.out) ?_
          obtain ⟨W100, hW100, hb100, hz100⟩ := alloc_zero W99
          rw [← hW100]
          obtain ⟨g100, hg100⟩ : ∃ g, g = W99.heap.size := ⟨_, rfl⟩
          rw [← hg100] at hz100 ⊢
          have HG100 := gE hg100 HL_99
          have HX100_25 := nXq RG_99 hg100
          have HX100_26 := nXq RX_99 hg100
          have HX100_27 := nXq RY_99 hg100
          have HX100_28 := nXq Na27_0_99 hg100
          have HX100_29 := nXq Na35_0_99 hg100
          have HX100_30 := nXq Na54_0_99 hg100
          have HX100_31 := nXq Na73_0_99 hg100
          have HX100_32 := nXq RZ99_99 hg100
          have RG_100 := hKq RG_99 hb100
          have RX_100 := hKq RX_99 hb100
          have RY_100 := hKq RY_99 hb100
          have Na27_0_100 := hKq Na27_0_99 hb100
          have Na35_0_100 := hKq Na35_0_99 hb100
          have Na54_0_100 := hKq Na54_0_99 hb100
          have Na73_0_100 := hKq Na73_0_99 hb100
          have RZ99_100 := hKq RZ99_99 hb100
          have HF_100 := fCq HF_99 hb100
          have HL_100 := lT HL_99 hb100
          have RZ100_100 := zrq hz100
          clear hb100 hz100 hg100 hW100 HL_99 RG_99 RX_99 RY_99 Na27_0_99 Na35_0_99 Na54_0_99 Na73_0_99 RZ99_99 HF_99
          simp only [oEC72, Act.put, zA, zB, zC]
          refine storeW_F (i := 8) (oi := oEC74) rfl (by kernel_rfl) (by rfl) (.tmp 10) (.tmp 72) rfl (g100) 0 0 rfl [0] ox rfl rfl RZ100_100.out (show 0 < 1 by omega) rfl ?_
          intro W101 hr101 hg101 hz101
          simp only [oEC74, Act.put, zA, zB, zC]
          have RG_101 := hGq RG_100 hg101 HX100_25
          have RX_101 := hGq RX_100 hg101 HX100_26
          have RY_101 := hGq RY_100 hg101 HX100_27
          have Na27_0_101 := hGq Na27_0_100 hg101 HX100_28
          have Na35_0_101 := hGq Na35_0_100 hg101 HX100_29
          have Na54_0_101 := hGq Na54_0_100 hg101 HX100_30
          have Na73_0_101 := hGq Na73_0_100 hg101 HX100_31
          have RZ99_101 := hGq RZ99_100 hg101 HX100_32
          have RZ100_101 : Hid (RAt W101 g100 [ox]) := Lib.hid hr101
          have HF_101 := fNq HF_100 hg101 HG100 HLO92
          have HL_101 := lG HL_100 hg101
          clear hr101 hg101 hz101 HL_100 RG_100 RX_100 RY_100 Na27_0_100 Na35_0_100 Na54_0_100 Na73_0_100 RZ99_100 RZ100_100 HF_100
          refine storeW_F (i := 9) (oi := oEC75) rfl (by kernel_rfl) (by rfl) (.tmp 11) (.tmp 75) rfl (g99) 0 0 rfl [0] oy rfl rfl RZ99_101.out (show 0 < 1 by omega) rfl ?_
          intro W102 hr102 hg102 hz102
          simp only [oEC75, Act.put, zA, zB, zC]
          have RG_102 := hGq RG_101 hg102 HX99_18
          have RX_102 := hGq RX_101 hg102 HX99_19
          have RY_102 := hGq RY_101 hg102 HX99_20
          have Na27_0_102 := hGq Na27_0_101 hg102 HX99_21
          have Na35_0_102 := hGq Na35_0_101 hg102 HX99_22
          have Na54_0_102 := hGq Na54_0_101 hg102 HX99_23
          have Na73_0_102 := hGq Na73_0_101 hg102 HX99_24
          have RZ99_102 : Hid (RAt W102 g99 [oy]) := Lib.hid hr102
          have RZ100_102 := hGq RZ100_101 hg102 HX100_32
          have HF_102 := fNq HF_101 hg102 HG99 HLO92
          have HL_102 := lG HL_101 hg102
          clear hr102 hg102 hz102 HL_101 RG_101 RX_101 RY_101 Na27_0_101 Na35_0_101 Na54_0_101 Na73_0_101 RZ99_101 RZ100_101 HF_101
          refine doneW (by kernel_rfl) ⟨rfl, ?_⟩ _
          exact ⟨g100, g99, RG_102.out, RX_102.out, RY_102.out, Na27_0_102.out, Na35_0_102.out, Na54_0_102.out, Na73_0_102.out, RZ100_102.out, RZ99_102.out, HG100.out, HG99.out, (by have := HX100_32.out; omega), HF_102.out, rfl⟩
      · refine wpOp_value (i := 6) (oi := oEC72) rfl (by rfl) (exec_alloc 23 rfl (.agg (zbs 32)) zero23 W93) ⟨fun _ => (below_alloc W93 _).mono HL_93.out, ?_⟩
        obtain ⟨W103, hW103, hb103, hz103⟩ := alloc_zero W93
        rw [← hW103]
        obtain ⟨g103, hg103⟩ : ∃ g, g = W93.heap.size := ⟨_, rfl⟩
        rw [← hg103] at hz103 ⊢
        have HG103 := gE hg103 HL_93
        have HX103_18 := nXq RG_93 hg103
        have HX103_19 := nXq RX_93 hg103
        have HX103_20 := nXq RY_93 hg103
        have HX103_21 := nXq Na27_0_93 hg103
        have HX103_22 := nXq Na35_0_93 hg103
        have HX103_23 := nXq Na54_0_93 hg103
        have HX103_24 := nXq Na73_0_93 hg103
        have RG_103 := hKq RG_93 hb103
        have RX_103 := hKq RX_93 hb103
        have RY_103 := hKq RY_93 hb103
        have Na27_0_103 := hKq Na27_0_93 hb103
        have Na35_0_103 := hKq Na35_0_93 hb103
        have Na54_0_103 := hKq Na54_0_93 hb103
        have Na73_0_103 := hKq Na73_0_93 hb103
        have HF_103 := fCq HF_93 hb103
        have HL_103 := lT HL_93 hb103
        have RZ103_103 := zrq hz103
        clear hb103 hz103 hg103 hW103 HL_93 RG_93 RX_93 RY_93 Na27_0_93 Na35_0_93 Na54_0_93 Na73_0_93 HF_93
        simp only [oEC72, Act.put, zA, zB, zC]
        refine eachW [5, 7] (by kernel_rfl) (by simp) ?_
        intro k hk
        simp only [zM, zN, or_false] at hk
        rcases hk with rfl | rfl
        · refine wpOp_call (i := 5) (oi := oEC71) rfl (by rfl) (exec_callL 21 [.tmp 73, .tmp 74] #[23, 23] rfl [vN one, vN d] rfl (CG21 _)) ((C11.out W103).mono ?_)
          rintro e104 W104 ⟨rfl, hb104⟩
          refine ⟨_, rfl, fun _ => hb104.mono HL_103.out, ?_⟩
          have RG_104 := hKq RG_103 hb104
          have RX_104 := hKq RX_103 hb104
          have RY_104 := hKq RY_103 hb104
          have Na27_0_104 := hKq Na27_0_103 hb104
          have Na35_0_104 := hKq Na35_0_103 hb104
          have Na54_0_104 := hKq Na54_0_103 hb104
          have Na73_0_104 := hKq Na73_0_103 hb104
          have RZ103_104 := hKq RZ103_103 hb104
          have HF_104 := fCq HF_103 hb104
          have HL_104 := lT HL_103 hb104
          clear hb104 HL_103 RG_103 RX_103 RY_103 Na27_0_103 Na35_0_103 Na54_0_103 Na73_0_103 RZ103_103 HF_103
          simp only [oEC71, Act.put, zA, zB, zC]
          refine opW _ _ (i := 7) (oi := oEC73) rfl (by kernel_rfl) (by rfl) (exec_alloc 23 rfl (.agg (zbs 32)) zero23 W104) (fun _ => (below_alloc W104 _).mono HL_104.out) ?_
          obtain ⟨W105, hW105, hb105, hz105⟩ := alloc_zero W104
          rw [← hW105]
          obtain ⟨g105, hg105⟩ : ∃ g, g = W104.heap.size := ⟨_, rfl⟩
          rw [← hg105] at hz105 ⊢
          have HG105 := gE hg105 HL_104
          have HX105_25 := nXq RG_104 hg105
          have HX105_26 := nXq RX_104 hg105
          have HX105_27 := nXq RY_104 hg105
          have HX105_28 := nXq Na27_0_104 hg105
          have HX105_29 := nXq Na35_0_104 hg105
          have HX105_30 := nXq Na54_0_104 hg105
          have HX105_31 := nXq Na73_0_104 hg105
          have HX105_32 := nXq RZ103_104 hg105
          have RG_105 := hKq RG_104 hb105
          have RX_105 := hKq RX_104 hb105
          have RY_105 := hKq RY_104 hb105
          have Na27_0_105 := hKq Na27_0_104 hb105
          have Na35_0_105 := hKq Na35_0_104 hb105
          have Na54_0_105 := hKq Na54_0_104 hb105
          have Na73_0_105 := hKq Na73_0_104 hb105
          have RZ103_105 := hKq RZ103_104 hb105
          have HF_105 := fCq HF_104 hb105
          have HL_105 := lT HL_104 hb105
          have RZ105_105 := zrq hz105
          clear hb105 hz105 hg105 hW105 HL_104 RG_104 RX_104 RY_104 Na27_0_104 Na35_0_104 Na54_0_104 Na73_0_104 RZ103_104 HF_104
          simp only [oEC73, Act.put, zA, zB, zC]
          refine storeW_F (i := 8) (oi := oEC74) rfl (by kernel_rfl) (by rfl) (.tmp 10) (.tmp 72) rfl (g103) 0 0 rfl [0] ox rfl rfl RZ103_105.out (show 0 < 1 by omega) rfl ?_
          intro W106 hr106 hg106 hz106
          simp only [oEC74, Act.put, zA, zB, zC]
          have RG_106 := hGq RG_105 hg106 HX103_18
          have RX_106 := hGq RX_105 hg106 HX103_19
          have RY_106 := hGq RY_105 hg106 HX103_20
          have Na27_0_106 := hGq Na27_0_105 hg106 HX103_21
          have Na35_0_106 := hGq Na35_0_105 hg106 HX103_22
          have Na54_0_106 := hGq Na54_0_105 hg106 HX103_23
          have Na73_0_106 := hGq Na73_0_105 hg106 HX103_24
          have RZ103_106 : Hid (RAt W106 g103 [ox]) := Lib.hid hr106
          have RZ105_106 := hGq RZ105_105 hg106 HX105_32
          have HF_106 := fNq HF_105 hg106 HG103 HLO92
          have HL_106 := lG HL_105 hg106
          clear hr106 hg106 hz106 HL_105 RG_105 RX_105 RY_105 Na27_0_105 Na35_0_105 Na54_0_105 Na73_0_105 RZ103_105 RZ105_105 HF_105
          refine storeW_F (i := 9) (oi := oEC75) rfl (by kernel_rfl) (by rfl) (.tmp 11) (.tmp 75) rfl (g105) 0 0 rfl [0] oy rfl rfl RZ105_106.out (show 0 < 1 by omega) rfl ?_
          intro W107 hr107 hg107 hz107
          simp only [oEC75, Act.put, zA, zB, zC]
          have RG_107 := hGq RG_106 hg107 HX105_25
          have RX_107 := hGq RX_106 hg107 HX105_26
          have RY_107 := hGq RY_106 hg107 HX105_27
          have Na27_0_107 := hGq Na27_0_106 hg107 HX105_28
          have Na35_0_107 := hGq Na35_0_106 hg107 HX105_29
          have Na54_0_107 := hGq Na54_0_106 hg107 HX105_30
          have Na73_0_107 := hGq Na73_0_106 hg107 HX105_31
          have RZ103_107 := hGq RZ103_106 hg107 HX105_32
          have RZ105_107 : Hid (RAt W107 g105 [oy]) := Lib.hid hr107
          have HF_107 := fNq HF_106 hg107 HG105 HLO92
          have HL_107 := lG HL_106 hg107
          clear hr107 hg107 hz107 HL_106 RG_106 RX_106 RY_106 Na27_0_106 Na35_0_106 Na54_0_106 Na73_0_106 RZ103_106 RZ105_106 HF_106
          refine doneW (by kernel_rfl) ⟨rfl, ?_⟩ _
          exact ⟨g103, g105, RG_107.out, RX_107.out, RY_107.out, Na27_0_107.out, Na35_0_107.out, Na54_0_107.out, Na73_0_107.out, RZ103_107.out, RZ105_107.out, HG103.out, HG105.out, (by have := HX105_32.out; omega), HF_107.out, rfl⟩
        · refine wpOp_value (i := 7) (oi := oEC73) rfl (by rfl) (exec_alloc 23 rfl (.agg (zbs 32)) zero23 W103) ⟨fun _ => (below_alloc W103 _).mono HL_103.out, ?_⟩
          obtain ⟨W108, hW108, hb108, hz108⟩ := alloc_zero W103
          rw [← hW108]
          obtain ⟨g108, hg108⟩ : ∃ g, g = W103.heap.size := ⟨_, rfl⟩
          rw [← hg108] at hz108 ⊢
          have HG108 := gE hg108 HL_103
          have HX108_25 := nXq RG_103 hg108
          have HX108_26 := nXq RX_103 hg108
          have HX108_27 := nXq RY_103 hg108
          have HX108_28 := nXq Na27_0_103 hg108
          have HX108_29 := nXq Na35_0_103 hg108
          have HX108_30 := nXq Na54_0_103 hg108
          have HX108_31 := nXq Na73_0_103 hg108
          have HX108_32 := nXq RZ103_103 hg108
          have RG_108 := hKq RG_103 hb108
          have RX_108 := hKq RX_103 hb108
          have RY_108 := hKq RY_103 hb108
          have Na27_0_108 := hKq Na27_0_103 hb108
          have Na35_0_108 := hKq Na35_0_103 hb108
          have Na54_0_108 := hKq Na54_0_103 hb108
          have Na73_0_108 := hKq Na73_0_103 hb108
          have RZ103_108 := hKq RZ103_103 hb108
          have HF_108 := fCq HF_103 hb108
          have HL_108 := lT HL_103 hb108
          have RZ108_108 := zrq hz108
          clear hb108 hz108 hg108 hW108 HL_103 RG_103 RX_103 RY_103 Na27_0_103 Na35_0_103 Na54_0_103 Na73_0_103 RZ103_103 HF_103
          simp only [oEC73, Act.put, zA, zB, zC]
          refine callW (i := 5) (oi := oEC71) rfl (by kernel_rfl) (by rfl) (exec_callL 21 [.tmp 73, .tmp 74] #[23, 23] rfl [vN one, vN d] rfl (CG21 _)) ((C11.out W108).mono ?_)
          rintro e109 W109 ⟨rfl, hb109⟩
          refine ⟨_, rfl, fun _ => hb109.mono HL_108.out, ?_⟩
          have RG_109 := hKq RG_108 hb109
          have RX_109 := hKq RX_108 hb109
          have RY_109 := hKq RY_108 hb109
          have Na27_0_109 := hKq Na27_0_108 hb109
          have Na35_0_109 := hKq Na35_0_108 hb109
          have Na54_0_109 := hKq Na54_0_108 hb109
          have Na73_0_109 := hKq Na73_0_108 hb109
          have RZ103_109 := hKq RZ103_108 hb109
          have RZ108_109 := hKq RZ108_108 hb109
          have HF_109 := fCq HF_108 hb109
          have HL_109 := lT HL_108 hb109
          clear hb109 HL_108 RG_108 RX_108 RY_108 Na27_0_108 Na35_0_108 Na54_0_108 Na73_0_108 RZ103_108 RZ108_108 HF_108
          simp only [oEC71, Act.put, zA, zB, zC]
          refine storeW_F (i := 8) (oi := oEC74) rfl (by kernel_rfl) (by rfl) (.tmp 10) (.tmp 72) rfl (g103) 0 0 rfl [0] ox rfl rfl RZ103_109.out (show 0 < 1 by omega) rfl ?_
          intro W110 hr110 hg110 hz110
          simp only [oEC74, Act.put, zA, zB, zC]
          have RG_110 := hGq RG_109 hg110 HX103_18
          have RX_110 := hGq RX_109 hg110 HX103_19
          have RY_110 := hGq RY_109 hg110 HX103_20
          have Na27_0_110 := hGq Na27_0_109 hg110 HX103_21
          have Na35_0_110 := hGq Na35_0_109 hg110 HX103_22
          have Na54_0_110 := hGq Na54_0_109 hg110 HX103_23
          have Na73_0_110 := hGq Na73_0_109 hg110 HX103_24
          have RZ103_110 : Hid (RAt W110 g103 [ox]) := Lib.hid hr110
          have RZ108_110 := hGq RZ108_109 hg110 HX108_32
          have HF_110 := fNq HF_109 hg110 HG103 HLO92
          have HL_110 := lG HL_109 hg110
          clear hr110 hg110 hz110 HL_109 RG_109 RX_109 RY_109 Na27_0_109 Na35_0_109 Na54_0_109 Na73_0_109 RZ103_109 RZ108_109 HF_109
          refine storeW_F (i := 9) (oi := oEC75) rfl (by kernel_rfl) (by rfl) (.tmp 11) (.tmp 75) rfl (g108) 0 0 rfl [0] oy rfl rfl RZ108_110.out (show 0 < 1 by omega) rfl ?_
          intro W111 hr111 hg111 hz111
          simp only [oEC75, Act.put, zA, zB, zC]
          have RG_111 := hGq RG_110 hg111 HX108_25
          have RX_111 := hGq RX_110 hg111 HX108_26
          have RY_111 := hGq RY_110 hg111 HX108_27
          have Na27_0_111 := hGq Na27_0_110 hg111 HX108_28
          have Na35_0_111 := hGq Na35_0_110 hg111 HX108_29
          have Na54_0_111 := hGq Na54_0_110 hg111 HX108_30
          have Na73_0_111 := hGq Na73_0_110 hg111 HX108_31
          have RZ103_111 := hGq RZ103_110 hg111 HX108_32
          have RZ108_111 : Hid (RAt W111 g108 [oy]) := Lib.hid hr111
          have HF_111 := fNq HF_110 hg111 HG108 HLO92
          have HL_111 := lG HL_110 hg111
          clear hr111 hg111 hz111 HL_110 RG_110 RX_110 RY_110 Na27_0_110 Na35_0_110 Na54_0_110 Na73_0_110 RZ103_110 RZ108_110 HF_110
          refine doneW (by kernel_rfl) ⟨rfl, ?_⟩ _
          exact ⟨g103, g108, RG_111.out, RX_111.out, RY_111.out, Na27_0_111.out, Na35_0_111.out, Na54_0_111.out, Na73_0_111.out, RZ103_111.out, RZ108_111.out, HG103.out, HG108.out, (by have := HX108_32.out; omega), HF_111.out, rfl⟩
      · refine wpOp_value (i := 7) (oi := oEC73) rfl (by rfl) (exec_alloc 23 rfl (.agg (zbs 32)) zero23 W93) ⟨fun _ => (below_alloc W93 _).mono HL_93.out, ?_⟩
        obtain ⟨W112, hW112, hb112, hz112⟩ := alloc_zero W93
        rw [← hW112]
        obtain ⟨g112, hg112⟩ : ∃ g, g = W93.heap.size := ⟨_, rfl⟩
        rw [← hg112] at hz112 ⊢
        have HG112 := gE hg112 HL_93
        have HX112_18 := nXq RG_93 hg112
        have HX112_19 := nXq RX_93 hg112
        have HX112_20 := nXq RY_93 hg112
        have HX112_21 := nXq Na27_0_93 hg112
        have HX112_22 := nXq Na35_0_93 hg112
        have HX112_23 := nXq Na54_0_93 hg112
        have HX112_24 := nXq Na73_0_93 hg112
        have RG_112 := hKq RG_93 hb112
        have RX_112 := hKq RX_93 hb112
        have RY_112 := hKq RY_93 hb112
        have Na27_0_112 := hKq Na27_0_93 hb112
        have Na35_0_112 := hKq Na35_0_93 hb112
        have Na54_0_112 := hKq Na54_0_93 hb112
        have Na73_0_112 := hKq Na73_0_93 hb112
        have HF_112 := fCq HF_93 hb112
        have HL_112 := lT HL_93 hb112
        have RZ112_112 := zrq hz112
        clear hb112 hz112 hg112 hW112 HL_93 RG_93 RX_93 RY_93 Na27_0_93 Na35_0_93 Na54_0_93 Na73_0_93 HF_93
        simp only [oEC73, Act.put, zA, zB, zC]
        refine eachW [5, 6] (by kernel_rfl) (by simp) ?_
        intro k hk
        simp only [zM, zN, or_false] at hk
        rcases hk with rfl | rfl
        · refine wpOp_call (i := 5) (oi := oEC71) rfl (by rfl) (exec_callL 21 [.tmp 73, .tmp 74] #[23, 23] rfl [vN one, vN d] rfl (CG21 _)) ((C11.out W112).mono ?_)
          rintro e113 W113 ⟨rfl, hb113⟩
          refine ⟨_, rfl, fun _ => hb113.mono HL_112.out, ?_⟩
          have RG_113 := hKq RG_112 hb113
          have RX_113 := hKq RX_112 hb113
          have RY_113 := hKq RY_112 hb113
          have Na27_0_113 := hKq Na27_0_112 hb113
          have Na35_0_113 := hKq Na35_0_112 hb113
          have Na54_0_113 := hKq Na54_0_112 hb113
          have Na73_0_113 := hKq Na73_0_112 hb113
          have RZ112_113 := hKq RZ112_112 hb113
          have HF_113 := fCq HF_112 hb113
          have HL_113 := lT HL_112 hb113
          clear hb113 HL_112 RG_112 RX_112 RY_112 Na27_0_112 Na35_0_112 Na54_0_112 Na73_0_112 RZ112_112 HF_112
          simp only [oEC71, Act.put, zA, zB, zC]
          refine opW _ _ (i := 6) (oi := oEC72) rfl (by kernel_rfl) (by rfl) (exec_alloc 23 rfl (.agg (zbs 32)) zero23 W113) (fun _ => (below_alloc W113 _).mono HL_113.out) ?_
          obtain ⟨W114, hW114, hb114, hz114⟩ := alloc_zero W113
          rw [← hW114]
          obtain ⟨g114, hg114⟩ : ∃ g, g = W113.heap.size := ⟨_, rfl⟩
          rw [← hg114] at hz114 ⊢
          have HG114 := gE hg114 HL_113
          have HX114_25 := nXq RG_113 hg114
          have HX114_26 := nXq RX_113 hg114
          have HX114_27 := nXq RY_113 hg114
          have HX114_28 := nXq Na27_0_113 hg114
          have HX114_29 := nXq Na35_0_113 hg114
          have HX114_30 := nXq Na54_0_113 hg114
          have HX114_31 := nXq Na73_0_113 hg114
          have HX114_32 := nXq RZ112_113 hg114
          have RG_114 := hKq RG_113 hb114
          have RX_114 := hKq RX_113 hb114
          have RY_114 := hKq RY_113 hb114
          have Na27_0_114 := hKq Na27_0_113 hb114
          have Na35_0_114 := hKq Na35_0_113 hb114
          have Na54_0_114 := hKq Na54_0_113 hb114
          have Na73_0_114 := hKq Na73_0_113 hb114
          have RZ112_114 := hKq RZ112_113 hb114
          have HF_114 := fCq HF_113 hb114
          have HL_114 := lT HL_113 hb114
          have RZ114_114 := zrq hz114
          clear hb114 hz114 hg114 hW114 HL_113 RG_113 RX_113 RY_113 Na27_0_113 Na35_0_113 Na54_0_113 Na73_0_113 RZ112_113 HF_113
          simp only [oEC72, Act.put, zA, zB, zC]
          refine storeW_F (i := 8) (oi := oEC74) rfl (by kernel_rfl) (by rfl) (.tmp 10) (.tmp 72) rfl (g114) 0 0 rfl [0] ox rfl rfl RZ114_114.out (show 0 < 1 by omega) rfl ?_
          intro W115 hr115 hg115 hz115
          simp only [oEC74, Act.put, zA, zB, zC]
          have RG_115 := hGq RG_114 hg115 HX114_25
          have RX_115 := hGq RX_114 hg115 HX114_26
          have RY_115 := hGq RY_114 hg115 HX114_27
          have Na27_0_115 := hGq Na27_0_114 hg115 HX114_28
          have Na35_0_115 := hGq Na35_0_114 hg115 HX114_29
          have Na54_0_115 := hGq Na54_0_114 hg115 HX114_30
          have Na73_0_115 := hGq Na73_0_114 hg115 HX114_31
          have RZ112_115 := hGq RZ112_114 hg115 HX114_32
          have RZ114_115 : Hid (RAt W115 g114 [ox]) := Lib.hid hr115
          have HF_115 := fNq HF_114 hg115 HG114 HLO92
          have HL_115 := lG HL_114 hg115
          clear hr115 hg115 hz115 HL_114 RG_114 RX_114 RY_114 Na27_0_114 Na35_0_114 Na54_0_114 Na73_0_114 RZ112_114 RZ114_114 HF_114
          refine storeW_F (i := 9) (oi := oEC75) rfl (by kernel_rfl) (by rfl) (.tmp 11) (.tmp 75) rfl (g112) 0 0 rfl [0] oy rfl rfl RZ112_115.out (show 0 < 1 by omega) rfl ?_
          intro W116 hr116 hg116 hz116
          simp only [oEC75, Act.put, zA, zB, zC]
          have RG_116 := hGq RG_115 hg116 HX112_18
          have RX_116 := hGq RX_115 hg116 HX112_19
          have RY_116 := hGq RY_115 hg116 HX112_20
          have Na27_0_116 := hGq Na27_0_115 hg116 HX112_21
          have Na35_0_116 := hGq Na35_0_115 hg116 HX112_22
          have Na54_0_116 := hGq Na54_0_115 hg116 HX112_23
          have Na73_0_116 := hGq Na73_0_115 hg116 HX112_24
          have RZ112_116 : Hid (RAt W116 g112 [oy]) := Lib.hid hr116
          have RZ114_116 := hGq RZ114_115 hg116 HX114_32
          have HF_116 := fNq HF_115 hg116 HG112 HLO92
          have HL_116 := lG HL_115 hg116
          clear hr116 hg116 hz116 HL_115 RG_115 RX_115 RY_115 Na27_0_115 Na35_0_115 Na54_0_115 Na73_0_115 RZ112_115 RZ114_115 HF_115
          refine doneW (by kernel_rfl) ⟨rfl, ?_⟩ _
          exact ⟨g114, g112, RG_116.out, RX_116.out, RY_116.out, Na27_0_116.out, Na35_0_116.out, Na54_0_116.out, Na73_0_116.out, RZ114_116.out, RZ112_116.out, HG114.out, HG112.out, (by have := HX114_32.out; omega), HF_116.out, rfl⟩
        · refine wpOp_value (i := 6) (oi := oEC72) rfl (by rfl) (exec_alloc 23 rfl (.agg (zbs 32)) zero23 W112) ⟨fun _ => (below_alloc W112 _).mono HL_112.out, ?_⟩
          obtain ⟨W117, hW117, hb117, hz117⟩ := alloc_zero W112
          rw [← hW117]
          obtain ⟨g117, hg117⟩ : ∃ g, g = W112.heap.size := ⟨_, rfl⟩
          rw [← hg117] at hz117 ⊢
          have HG117 := gE hg117 HL_112
          have HX117_25 := nXq RG_112 hg117
          have HX117_26 := nXq RX_112 hg117
          have HX117_27 := nXq RY_112 hg117
          have HX117_28 := nXq Na27_0_112 hg117
          have HX117_29 := nXq Na35_0_112 hg117
          have HX117_30 := nXq Na54_0_112 hg117
          have HX117_31 := nXq Na73_0_112 hg117
          have HX117_32 := nXq RZ112_112 hg117
          have RG_117 := hKq RG_112 hb117
          have RX_117 := hKq RX_112 hb117
          have RY_117 := hKq RY_112 hb117
          have Na27_0_117 := hKq Na27_0_112 hb117
          have Na35_0_117 := hKq Na35_0_112 hb117
          have Na54_0_117 := hKq Na54_0_112 hb117
          have Na73_0_117 := hKq Na73_0_112 hb117
          have RZ112_117 := hKq RZ112_112 hb117
          have HF_117 := fCq HF_112 hb117
          have HL_117 := lT HL_112 hb117
          have RZ117_117 := zrq hz117
          clear hb117 hz117 hg117 hW117 HL_112 RG_112 RX_112 RY_112 Na27_0_112 Na35_0_112 Na54_0_112 Na73_0_112 RZ112_112 HF_112
          simp only [oEC72, Act.put, zA, zB, zC]
          refine callW (i := 5) (oi := oEC71) rfl (by kernel_rfl) (by rfl) (exec_callL 21 [.tmp 73, .tmp 74] #[23, 23] rfl [vN one, vN d] rfl (CG21 _)) ((C11.out W117).mono ?_)
          rintro e118 W118 ⟨rfl, hb118⟩
          refine ⟨_, rfl, fun _ => hb118.mono HL_117.out, ?_⟩
          have RG_118 := hKq RG_117 hb118
          have RX_118 := hKq RX_117 hb118
          have RY_118 := hKq RY_117 hb118
          have Na27_0_118 := hKq Na27_0_117 hb118
          have Na35_0_118 := hKq Na35_0_117 hb118
          have Na54_0_118 := hKq Na54_0_117 hb118
          have Na73_0_118 := hKq Na73_0_117 hb118
          have RZ112_118 := hKq RZ112_117 hb118
          have RZ117_118 := hKq RZ117_117 hb118
          have HF_118 := fCq HF_117 hb118
          have HL_118 := lT HL_117 hb118
          clear hb118 HL_117 RG_117 RX_117 RY_117 Na27_0_117 Na35_0_117 Na54_0_117 Na73_0_117 RZ112_117 RZ117_117 HF_117
          simp only [oEC71, Act.put, zA, zB, zC]
          refine storeW_F (i := 8) (oi := oEC74) rfl (by kernel_rfl) (by rfl) (.tmp 10) (.tmp 72) rfl (g117) 0 0 rfl [0] ox rfl rfl RZ117_118.out (show 0 < 1 by omega) rfl ?_
          intro W119 hr119 hg119 hz119
          simp only [oEC74, Act.put, zA, zB, zC]
          have RG_119 := hGq RG_118 hg119 HX117_25
          have RX_119 := hGq RX_118 hg119 HX117_26
          have RY_119 := hGq RY_118 hg119 HX117_27
          have Na27_0_119 := hGq Na27_0_118 hg119 HX117_28
          have Na35_0_119 := hGq Na35_0_118 hg119 HX117_29
          have Na54_0_119 := hGq Na54_0_118 hg119 HX117_30
          have Na73_0_119 := hGq Na73_0_118 hg119 HX117_31
          have RZ112_119 := hGq RZ112_118 hg119 HX117_32
          have RZ117_119 : Hid (RAt W119 g117 [ox]) := Lib.hid hr119
          have HF_119 := fNq HF_118 hg119 HG117 HLO92
          have HL_119 := lG HL_118 hg119
          clear hr119 hg119 hz119 HL_118 RG_118 RX_118 RY_118 Na27_0_118 Na35_0_118 Na54_0_118 Na73_0_118 RZ112_118 RZ117_118 HF_118
          refine storeW_F (i := 9) (oi := oEC75) rfl (by kernel_rfl) (by rfl) (.tmp 11) (.tmp 75) rfl (g112) 0 0 rfl [0] oy rfl rfl RZ112_119.out (show 0 < 1 by omega) rfl ?_
          intro W120 hr120 hg120 hz120
          simp only [oEC75, Act.put, zA, zB, zC]
          have RG_120 := hGq RG_119 hg120 HX112_18
          have RX_120 := hGq RX_119 hg120 HX112_19
          have RY_120 := hGq RY_119 hg120 HX112_20
          have Na27_0_120 := hGq Na27_0_119 hg120 HX112_21
          have Na35_0_120 := hGq Na35_0_119 hg120 HX112_22
          have Na54_0_120 := hGq Na54_0_119 hg120 HX112_23
          have Na73_0_120 := hGq Na73_0_119 hg120 HX112_24
          have RZ112_120 : Hid (RAt W120 g112 [oy]) := Lib.hid hr120
          have RZ117_120 := hGq RZ117_119 hg120 HX117_32
          have HF_120 := fNq HF_119 hg120 HG112 HLO92
          have HL_120 := lG HL_119 hg120
          clear hr120 hg120 hz120 HL_119 RG_119 RX_119 RY_119 Na27_0_119 Na35_0_119 Na54_0_119 Na73_0_119 RZ112_119 RZ117_119 HF_119
          refine doneW (by kernel_rfl) ⟨rfl, ?_⟩ _
          exact ⟨g117, g112, RG_120.out, RX_120.out, RY_120.out, Na27_0_120.out, Na35_0_120.out, Na54_0_120.out, Na73_0_120.out, RZ117_120.out, RZ112_120.out, HG117.out, HG112.out, (by have := HX117_32.out; omega), HF_120.out, rfl⟩
    · refine wpOp_value (i := 6) (oi := oEC72) rfl (by rfl) (exec_alloc 23 rfl (.agg (zbs 32)) zero23 D92) ⟨fun _ => (below_alloc D92 _).mono HL_92.out, ?_⟩
      obtain ⟨W121, hW121, hb121, hz121⟩ := alloc_zero D92
      rw [← hW121]
      obtain ⟨g121, hg121⟩ : ∃ g, g = D92.heap.size := ⟨_, rfl⟩
      rw [← hg121] at hz121 ⊢
      have HG121 := gE hg121 HL_92
      have HX121_18 := nXq RG_92 hg121
      have HX121_19 := nXq RX_92 hg121
      have HX121_20 := nXq RY_92 hg121
      have HX121_21 := nXq Na27_0_92 hg121
      have HX121_22 := nXq Na35_0_92 hg121
      have HX121_23 := nXq Na54_0_92 hg121
      have HX121_24 := nXq Na73_0_92 hg121
      have RG_121 := hKq RG_92 hb121
      have RX_121 := hKq RX_92 hb121
      have RY_121 := hKq RY_92 hb121
      have Na27_0_121 := hKq Na27_0_92 hb121
      have Na35_0_121 := hKq Na35_0_92 hb121
      have Na54_0_121 := hKq Na54_0_92 hb121
      have Na73_0_121 := hKq Na73_0_92 hb121
      have HF_121 := fCq HF_92 hb121
      have HL_121 := lT HL_92 hb121
      have RZ121_121 := zrq hz121
      clear hb121 hz121 hg121 hW121 HL_92 RG_92 RX_92 RY_92 Na27_0_92 Na35_0_92 Na54_0_92 Na73_0_92 HF_92
      simp only [oEC72, Act.put, zA, zB, zC]
      refine eachW [2, 7] (by kernel_rfl) (by simp) ?_
      intro k hk
      simp only [zM, zN, or_false] at hk
      rcases hk with rfl | rfl
      · refine wpOp_call (i := 2) (oi := oEC70) rfl (by rfl) (exec_callL 19 [.tmp 70, .tmp 71] #[23, 23] rfl [vN one, vN d] rfl (CG19 _)) ((C10.out W121).mono ?_)
        rintro e122 W122 ⟨rfl, hb122⟩
        refine ⟨_, rfl, fun _ => hb122.mono HL_121.out, ?_⟩
        have RG_122 := hKq RG_121 hb122
        have RX_122 := hKq RX_121 hb122
        have RY_122 := hKq RY_121 hb122
        have Na27_0_122 := hKq Na27_0_121 hb122
        have Na35_0_122 := hKq Na35_0_121 hb122
        have Na54_0_122 := hKq Na54_0_121 hb122
        have Na73_0_122 := hKq Na73_0_121 hb122
        have RZ121_122 := hKq RZ121_121 hb122
        have HF_122 := fCq HF_121 hb122
        have HL_122 := lT HL_121 hb122
        clear hb122 HL_121 RG_121 RX_121 RY_121 Na27_0_121 Na35_0_121 Na54_0_121 Na73_0_121 RZ121_121 HF_121
        simp only [oEC70, Act.put, zA, zB, zC]
        refine eachW [5, 7] (by kernel_rfl) (by simp) ?_
        intro k hk
        simp only [zM, zN, or_false] at hk
        rcases hk with rfl | rfl
        · refine wpOp_call (i := 5) (oi := oEC71) rfl (by rfl) (exec_callL 21 [.tmp 73, .tmp 74] #[23, 23] rfl [vN one, vN d] rfl (CG21 _)) ((C11.out W122).mono ?_)
          rintro e123 W123 ⟨rfl, hb123⟩
          refine ⟨_, rfl, fun _ => hb123.mono HL_122.out, ?_⟩
          have RG_123 := hKq RG_122 hb123
          have RX_123 := hKq RX_122 hb123
          have RY_123 := hKq RY_122 hb123
          have Na27_0_123 := hKq Na27_0_122 hb123
          have Na35_0_123 := hKq Na35_0_122 hb123
          have Na54_0_123 := hKq Na54_0_122 hb123
          have Na73_0_123 := hKq Na73_0_122 hb123
          have RZ121_123 := hKq RZ121_122 hb123
          have HF_123 := fCq HF_122 hb123
          have HL_123 := lT HL_122 hb123
          clear hb123 HL_122 RG_122 RX_122 RY_122 Na27_0_122 Na35_0_122 Na54_0_122 Na73_0_122 RZ121_122 HF_122
          simp only [oEC71, Act.put, zA, zB, zC]
          refine opW _ _ (i := 7) (oi := oEC73) rfl (by kernel_rfl) (by rfl) (exec_alloc 23 rfl (.agg (zbs 32)) zero23 W123) (fun _ => (below_alloc W123 _).mono HL_123.out) ?_
          obtain ⟨W124, hW124, hb124, hz124⟩ := alloc_zero W123
          rw [← hW124]
          obtain ⟨g124, hg124⟩ : ∃ g, g = W123.heap.size := ⟨_, rfl⟩
          rw [← hg124] at hz124 ⊢
          have HG124 := gE hg124 HL_123
          have HX124_25 := nXq RG_123 hg124
          have HX124_26 := nXq RX_123 hg124
          have HX124_27 := nXq RY_123 hg124
          have HX124_28 := nXq Na27_0_123 hg124
          have HX124_29 := nXq Na35_0_123 hg124
          have HX124_30 := nXq Na54_0_123 hg124
          have HX124_31 := nXq Na73_0_123 hg124
          have HX124_32 := nXq RZ121_123 hg124
          have RG_124 := hKq RG_123 hb124
          have RX_124 := hKq RX_123 hb124
          have RY_124 := hKq RY_123 hb124
          have Na27_0_124 := hKq Na27_0_123 hb124
          have Na35_0_124 := hKq Na35_0_123 hb124
          have Na54_0_124 := hKq Na54_0_123 hb124
          have Na73_0_124 := hKq Na73_0_123 hb124
          have RZ121_124 := hKq RZ121_123 hb124
          have HF_124 := fCq HF_123 hb124
          have HL_124 := lT HL_123 hb124
          have RZ124_124 := zrq hz124
          clear hb124 hz124 hg124 hW124 HL_123 RG_123 RX_123 RY_123 Na27_0_123 Na35_0_123 Na54_0_123 Na73_0_123 RZ121_123 HF_123
          simp only [oEC73, Act.put, zA, zB, zC]
          refine storeW_F (i := 8) (oi := oEC74) rfl (by kernel_rfl) (by rfl) (.tmp 10) (.tmp 72) rfl (g121) 0 0 rfl [0] ox rfl rfl RZ121_124.out (show 0 < 1 by omega) rfl ?_
          intro W125 hr125 hg125 hz125
          simp only [oEC74, Act.put, zA, zB, zC]
          have RG_125 := hGq RG_124 hg125 HX121_18
          have RX_125 := hGq RX_124 hg125 HX121_19
          have RY_125 := hGq RY_124 hg125 HX121_20
          have Na27_0_125 := hGq Na27_0_124 hg125 HX121_21
          have Na35_0_125 := hGq Na35_0_124 hg125 HX121_22
          have Na54_0_125 := hGq Na54_0_124 hg125 HX121_23
          have Na73_0_125 := hGq Na73_0_124 hg125 HX121_24
          have RZ121_125 : Hid (RAt W125 g121 [ox]) := Lib.hid hr125
          have RZ124_125 := hGq RZ124_124 hg125 HX124_32
          have HF_125 := fNq HF_124 hg125 HG121 HLO92
          have HL_125 := lG HL_124 hg125
          clear hr125 hg125 hz125 HL_124 RG_124 RX_124 RY_124 Na27_0_124 Na35_0_124 Na54_0_124 Na73_0_124 RZ121_124 RZ124_124 HF_124
          refine storeW_F (i := 9) (oi := oEC75) rfl (by kernel_rfl) (by rfl) (.tmp 11) (.tmp 75) rfl (g124) 0 0 rfl [0] oy rfl rfl RZ124_125.out (show 0 < 1 by omega) rfl ?_
          intro W126 hr126 hg126 hz126
          simp only [oEC75, Act.put, zA, zB, zC]
          have RG_126 := hGq RG_125 hg126 HX124_25
          have RX_126 := hGq RX_125 hg126 HX124_26
          have RY_126 := hGq RY_125 hg126 HX124_27
          have Na27_0_126 := hGq Na27_0_125 hg126 HX124_28
          have Na35_0_126 := hGq Na35_0_125 hg126 HX124_29
          have Na54_0_126 := hGq Na54_0_125 hg126 HX124_30
          have Na73_0_126 := hGq Na73_0_125 hg126 HX124_31
          have RZ121_126 := hGq RZ121_125 hg126 HX124_32
          have RZ124_126 : Hid (RAt W126 g124 [oy]) := Lib.hid hr126
          have HF_126 := fNq HF_125 hg126 HG124 HLO92
          have HL_126 := lG HL_125 hg126
          clear hr126 hg126 hz126 HL_125 RG_125 RX_125 RY_125 Na27_0_125 Na35_0_125 Na54_0_125 Na73_0_125 RZ121_125 RZ124_125 HF_125
          refine doneW (by kernel_rfl) ⟨rfl, ?_⟩ _
          exact ⟨g121, g124, RG_126.out, RX_126.out, RY_126.out, Na27_0_126.out, Na35_0_126.out, Na54_0_126.out, Na73_0_126.out, RZ121_126.out, RZ124_126.out, HG121.out, HG124.out, (by have := HX124_32.out; omega), HF_126.out, rfl⟩
        · refine wpOp_value (i := 7) (oi := oEC73) rfl (by rfl) (exec_alloc 23 rfl (.agg (zbs 32)) zero23 W122) ⟨fun _ => (below_alloc W122 _).mono HL_122.out, ?_⟩
          obtain ⟨W127, hW127, hb127, hz127⟩ := alloc_zero W122
          rw [← hW127]
          obtain ⟨g127, hg127⟩ : ∃ g, g = W122.heap.size := ⟨_, rfl⟩
          rw [← hg127] at hz127 ⊢
          have HG127 := gE hg127 HL_122
          have HX127_25 := nXq RG_122 hg127
          have HX127_26 := nXq RX_122 hg127
          have HX127_27 := nXq RY_122 hg127
          have HX127_28 := nXq Na27_0_122 hg127
          have HX127_29 := nXq Na35_0_122 hg127
          have HX127_30 := nXq Na54_0_122 hg127
          have HX127_31 := nXq Na73_0_122 hg127
          have HX127_32 := nXq RZ121_122 hg127
          have RG_127 := hKq RG_122 hb127
          have RX_127 := hKq RX_122 hb127
          have RY_127 := hKq RY_122 hb127
          have Na27_0_127 := hKq Na27_0_122 hb127
          have Na35_0_127 := hKq Na35_0_122 hb127
          have Na54_0_127 := hKq Na54_0_122 hb127
          have Na73_0_127 := hKq Na73_0_122 hb127
          have RZ121_127 := hKq RZ121_122 hb127
          have HF_127 := fCq HF_122 hb127
          have HL_127 := lT HL_122 hb127
          have RZ127_127 := zrq hz127
          clear hb127 hz127 hg127 hW127 HL_122 RG_122 RX_122 RY_122 Na27_0_122 Na35_0_122 Na54_0_122 Na73_0_122 RZ121_122 HF_122
          simp only [oEC73, Act.put, zA, zB, zC]
          refine callW (i := 5) (oi := oEC71) rfl (by kernel_rfl) (by rfl) (exec_callL 21 [.tmp 73, .tmp 74] #[23, 23] rfl [vN one, vN d] rfl (CG21 _)) ((C11.out W127).mono ?_)
          rintro e128 W128 ⟨rfl, hb128⟩
          refine ⟨_, rfl, fun _ => hb128.mono HL_127.out, ?_⟩
          have RG_128 := hKq RG_127 hb128
          have RX_128 := hKq RX_127 hb128
          have RY_128 := hKq RY_127 hb128
          have Na27_0_128 := hKq Na27_0_127 hb128
          have Na35_0_128 := hKq Na35_0_127 hb128
          have Na54_0_128 := hKq Na54_0_127 hb128
          have Na73_0_128 := hKq Na73_0_127 hb128
          have RZ121_128 := hKq RZ121_127 hb128
          have RZ127_128 := hKq RZ127_127 hb128
          have HF_128 := fCq HF_127 hb128
          have HL_128 := lT HL_127 hb128
          clear hb128 HL_127 RG_127 RX_127 RY_127 Na27_0_127 Na35_0_127 Na54_0_127 Na73_0_127 RZ121_127 RZ127_127 HF_127
          simp only [oEC71, Act.put, zA, zB, zC]
          refine storeW_F (i := 8) (oi := oEC74) rfl (by kernel_rfl) (by rfl) (.tmp 10) (.tmp 72) rfl (g121) 0 0 rfl [0] ox rfl rfl RZ121_128.out (show 0 < 1 by omega) rfl ?_
          intro W129 hr129 hg129 hz129
          simp only [oEC74, Act.put, zA, zB, zC]
          have RG_129 := hGq RG_128 hg129 HX121_18
          have RX_129 := hGq RX_128 hg129 HX121_19
          have RY_129 := hGq RY_128 hg129 HX121_20
          have Na27_0_129 := hGq Na27_0_128 hg129 HX121_21
          have Na35_0_129 := hGq Na35_0_128 hg129 HX121_22
          have Na54_0_129 := hGq Na54_0_128 hg129 HX121_23
          have Na73_0_129 := hGq Na73_0_128 hg129 HX121_24
          have RZ121_129 : Hid (RAt W129 g121 [ox]) := Lib.hid hr129
          have RZ127_129 := hGq RZ127_128 hg129 HX127_32
          have HF_129 := fNq HF_128 hg129 HG121 HLO92
          have HL_129 := lG HL_128 hg129
          clear hr129 hg129 hz129 HL_128 RG_128 RX_128 RY_128 Na27_0_128 Na35_0_128 Na54_0_128 Na73_0_128 RZ121_128 RZ127_128 HF_128
          refine storeW_F (i := 9) (oi := oEC75) rfl (by kernel_rfl) (by rfl) (.tmp 11) (.tmp 75) rfl (g127) 0 0 rfl [0] oy rfl rfl RZ127_129.out (show 0 < 1 by omega) rfl ?_
          intro W130 hr130 hg130 hz130
          simp only [oEC75, Act.put, zA, zB, zC]
          have RG_130 := hGq RG_129 hg130 HX127_25
          have RX_130 := hGq RX_129 hg130 HX127_26
          have RY_130 := hGq RY_129 hg130 HX127_27
          have Na27_0_130 := hGq Na27_0_129 hg130 HX127_28
          have Na35_0_130 := hGq Na35_0_129 hg130 HX127_29
          have Na54_0_130 := hGq Na54_0_129 hg130 HX127_30
          have Na73_0_130 := hGq Na73_0_129 hg130 HX127_31
          have RZ121_130 := hGq RZ121_129 hg130 HX127_32
          have RZ127_130 : Hid (RAt W130 g127 [oy]) := Lib.hid hr130
          have HF_130 := fNq HF_129 hg130 HG127 HLO92
          have HL_130 := lG HL_129 hg130
          clear hr130 hg130 hz130 HL_129 RG_129 RX_129 RY_129 Na27_0_129 Na35_0_129 Na54_0_129 Na73_0_129 RZ121_129 RZ127_129 HF_129
          refine doneW (by kernel_rfl) ⟨rfl, ?_⟩ _
          exact ⟨g121, g127, RG_130.out, RX_130.out, RY_130.out, Na27_0_130.out, Na35_0_130.out, Na54_0_130.out, Na73_0_130.out, RZ121_130.out, RZ127_130.out, HG121.out, HG127.out, (by have := HX127_32.out; omega), HF_130.out, rfl⟩
      · refine wpOp_value (i := 7) (oi := oEC73) rfl (by rfl) (exec_alloc 23 rfl (.agg (zbs 32)) zero23 W121) ⟨fun _ => (below_alloc W121 _).mono HL_121.out, ?_⟩
        obtain ⟨W131, hW131, hb131, hz131⟩ := alloc_zero W121
        rw [← hW131]
        obtain ⟨g131, hg131⟩ : ∃ g, g = W121.heap.size := ⟨_, rfl⟩
        rw [← hg131] at hz131 ⊢
        have HG131 := gE hg131 HL_121
        have HX131_25 := nXq RG_121 hg131
        have HX131_26 := nXq RX_121 hg131
        have HX131_27 := nXq RY_121 hg131
        have HX131_28 := nXq Na27_0_121 hg131
        have HX131_29 := nXq Na35_0_121 hg131
        have HX131_30 := nXq Na54_0_121 hg131
        have HX131_31 := nXq Na73_0_121 hg131
        have HX131_32 := nXq RZ121_121 hg131
        have RG_131 := hKq RG_121 hb131
        have RX_131 := hKq RX_121 hb131
        have RY_131 := hKq RY_121 hb131
        have Na27_0_131 := hKq Na27_0_121 hb131
        have Na35_0_131 := hKq Na35_0_121 hb131
        have Na54_0_131 := hKq Na54_0_121 hb131
        have Na73_0_131 := hKq Na73_0_121 hb131
        have RZ121_131 := hKq RZ121_121 hb131
        have HF_131 := fCq HF_121 hb131
        have HL_131 := lT HL_121 hb131
        have RZ131_131 := zrq hz131
        clear hb131 hz131 hg131 hW131 HL_121 RG_121 RX_121 RY_121 Na27_0_121 Na35_0_121 Na54_0_121 Na73_0_121 RZ121_121 HF_121
        simp only [oEC73, Act.put, zA, zB, zC]
        refine callW (i := 2) (oi := oEC70) rfl (by kernel_rfl) (by rfl) (exec_callL 19 [.tmp 70, .tmp 71] #[23, 23] rfl [vN one, vN d] rfl (CG19 _)) ((C10.out W131).mono ?_)
        rintro e132 W132 ⟨rfl, hb132⟩
        refine ⟨_, rfl, fun _ => hb132.mono HL_131.out, ?_⟩
        have RG_132 := hKq RG_131 hb132
        have RX_132 := hKq RX_131 hb132
        have RY_132 := hKq RY_131 hb132
        have Na27_0_132 := hKq Na27_0_131 hb132
        have Na35_0_132 := hKq Na35_0_131 hb132
        have Na54_0_132 := hKq Na54_0_131 hb132
        have Na73_0_132 := hKq Na73_0_131 hb132
        have RZ121_132 := hKq RZ121_131 hb132
        have RZ131_132 := hKq RZ131_131 hb132
        have HF_132 := fCq HF_131 hb132
        have HL_132 := lT HL_131 hb132
        clear hb132 HL_131 RG_131 RX_131 RY_131 Na27_0_131 Na35_0_131 Na54_0_131 Na73_0_131 RZ121_131 RZ131_131 HF_131
        simp only [oEC70, Act.put, zA, zB, zC]
        refine callW (i := 5) (oi := oEC71) rfl (by kernel_rfl) (by rfl) (exec_callL 21 [.tmp 73, .tmp 74] #[23, 23] rfl [vN one, vN d] rfl (CG21 _)) ((C11.out W132).mono ?_)
        rintro e133 W133 ⟨rfl, hb133⟩
        refine ⟨_, rfl, fun _ => hb133.mono HL_132.out, ?_⟩
        have RG_133 := hKq RG_132 hb133
        have RX_133 := hKq RX_132 hb133
        have RY_133 := hKq RY_132 hb133
        have Na27_0_133 := hKq Na27_0_132 hb133
        have Na35_0_133 := hKq Na35_0_132 hb133
        have Na54_0_133 := hKq Na54_0_132 hb133
        have Na73_0_133 := hKq Na73_0_132 hb133
        have RZ121_133 := hKq RZ121_132 hb133
        have RZ131_133 := hKq RZ131_132 hb133
        have HF_133 := fCq HF_132 hb133
        have HL_133 := lT HL_132 hb133
        clear hb133 HL_132 RG_132 RX_132 RY_132 Na27_0_132 Na35_0_132 Na54_0_132 Na73_0_132 RZ121_132 RZ131_132 HF_132
        simp only [oEC71, Act.put, zA, zB, zC]
        refine storeW_F (i := 8) (oi := oEC74) rfl (by kernel_rfl) (by rfl) (.tmp 10) (.tmp 72) rfl (g121) 0 0 rfl [0] ox rfl rfl RZ121_133.out (show 0 < 1 by omega) rfl ?_
        intro W134 hr134 hg134 hz134
        simp only [oEC74, Act.put, zA, zB, zC]
        have RG_134 := hGq RG_133 hg134 HX121_18
        have RX_134 := hGq RX_133 hg134 HX121_19
        have RY_134 := hGq RY_133 hg134 HX121_20
        have Na27_0_134 := hGq Na27_0_133 hg134 HX121_21
        have Na35_0_134 := hGq Na35_0_133 hg134 HX121_22
        have Na54_0_134 := hGq Na54_0_133 hg134 HX121_23
        have Na73_0_134 := hGq Na73_0_133 hg134 HX121_24
        have RZ121_134 : Hid (RAt W134 g121 [ox]) := Lib.hid hr134
        have RZ131_134 := hGq RZ131_133 hg134 HX131_32
        have HF_134 := fNq HF_133 hg134 HG121 HLO92
        have HL_134 := lG HL_133 hg134
        clear hr134 hg134 hz134 HL_133 RG_133 RX_133 RY_133 Na27_0_133 Na35_0_133 Na54_0_133 Na73_0_133 RZ121_133 RZ131_133 HF_133
        refine storeW_F (i := 9) (oi := oEC75) rfl (by kernel_rfl) (by rfl) (.tmp 11) (.tmp 75) rfl (g131) 0 0 rfl [0] oy rfl rfl RZ131_134.out (show 0 < 1 by omega) rfl ?_
        intro W135 hr135 hg135 hz135
        simp only [oEC75, Act.put, zA, zB, zC]
        have RG_135 := hGq RG_134 hg135 HX131_25
        have RX_135 := hGq RX_134 hg135 HX131_26
        have RY_135 := hGq RY_134 hg135 HX131_27
        have Na27_0_135 := hGq Na27_0_134 hg135 HX131_28
        have Na35_0_135 := hGq Na35_0_134 hg135 HX131_29
        have Na54_0_135 := hGq Na54_0_134 hg135 HX131_30
        have Na73_0_135 := hGq Na73_0_134 hg135 HX131_31
        have RZ121_135 := hGq RZ121_134 hg135 HX131_32
        have RZ131_135 : Hid (RAt W135 g131 [oy]) := Lib.hid hr135
        have HF_135 := fNq HF_134 hg135 HG131 HLO92
        have HL_135 := lG HL_134 hg135
        clear hr135 hg135 hz135 HL_134 RG_134 RX_134 RY_134 Na27_0_134 Na35_0_134 Na54_0_134 Na73_0_134 RZ121_134 RZ131_134 HF_134
        refine doneW (by kernel_rfl) ⟨rfl, ?_⟩ _
        exact ⟨g121, g131, RG_135.out, RX_135.out, RY_135.out, Na27_0_135.out, Na35_0_135.out, Na54_0_135.out, Na73_0_135.out, RZ121_135.out, RZ131_135.out, HG121.out, HG131.out, (by have := HX131_32.out; omega), HF_135.out, rfl⟩
    · refine wpOp_value (i := 7) (oi := oEC73) rfl (by rfl) (exec_alloc 23 rfl (.agg (zbs 32)) zero23 D92) ⟨fun _ => (below_alloc D92 _).mono HL_92.out, ?_⟩
      obtain ⟨W136, hW136, hb136, hz136⟩ := alloc_zero D92
      rw [← hW136]
      obtain ⟨g136, hg136⟩ : ∃ g, g = D92.heap.size := ⟨_, rfl⟩
      rw [← hg136] at hz136 ⊢
      have HG136 := gE hg136 HL_92
      have HX136_18 := nXq RG_92 hg136
      have HX136_19 := nXq RX_92 hg136
      have HX136_20 := nXq RY_92 hg136
      have HX136_21 := nXq Na27_0_92 hg136
      have HX136_22 := nXq Na35_0_92 hg136
      have HX136_23 := nXq Na54_0_92 hg136
      have HX136_24 := nXq Na73_0_92 hg136
      have RG_136 := hKq RG_92 hb136
      have RX_136 := hKq RX_92 hb136
      have RY_136 := hKq RY_92 hb136
      have Na27_0_136 := hKq Na27_0_92 hb136
      have Na35_0_136 := hKq Na35_0_92 hb136
      have Na54_0_136 := hKq Na54_0_92 hb136
      have Na73_0_136 := hKq Na73_0_92 hb136
      have HF_136 := fCq HF_92 hb136
      have HL_136 := lT HL_92 hb136
      have RZ136_136 := zrq hz136
      clear hb136 hz136 hg136 hW136 HL_92 RG_92 RX_92 RY_92 Na27_0_92 Na35_0_92 Na54_0_92 Na73_0_92 HF_92
      simp only [oEC73, Act.put, zA, zB, zC]
      refine eachW [2, 6] (by kernel_rfl) (by simp) ?_
      intro k hk
      simp only [zM, zN, or_false] at hk
      rcases hk with rfl | rfl
      · refine wpOp_call (i := 2) (oi := oEC70) rfl (by rfl) (exec_callL 19 [.tmp 70, .tmp 71] #[23, 23] rfl [vN one, vN d] rfl (CG19 _)) ((C10.out W136).mono ?_)
        rintro e137 W137 ⟨rfl, hb137⟩
        refine ⟨_, rfl, fun _ => hb137.mono HL_136.out, ?_⟩
        have RG_137 := hKq RG_136 hb137
        have RX_137 := hKq RX_136 hb137
        have RY_137 := hKq RY_136 hb137
        have Na27_0_137 := hKq Na27_0_136 hb137
        have Na35_0_137 := hKq Na35_0_136 hb137
        have Na54_0_137 := hKq Na54_0_136 hb137
        have Na73_0_137 := hKq Na73_0_136 hb137
        have RZ136_137 := hKq RZ136_136 hb137
        have HF_137 := fCq HF_136 hb137
        have HL_137 := lT HL_136 hb137
        clear hb137 HL_136 RG_136 RX_136 RY_136 Na27_0_136 Na35_0_136 Na54_0_136 Na73_0_136 RZ136_136 HF_136
        simp only [oEC70, Act.put, zA, zB, zC]
        refine eachW [5, 6] (by kernel_rfl) (by simp) ?_
        intro k hk
        simp only [zM, zN, or_false] at hk
        rcases hk with rfl | rfl
        · refine wpOp_call (i := 5) (oi := oEC71) rfl (by rfl) (exec_callL 21 [.tmp 73, .tmp 74] #[23, 23] rfl [vN one, vN d] rfl (CG21 _)) ((C11.out W137).mono ?_)
          rintro e138 W138 ⟨rfl, hb138⟩
          refine ⟨_, rfl, fun _ => hb138.mono HL_137.out, ?_⟩
          have RG_138 := hKq RG_137 hb138
          have RX_138 := hKq RX_137 hb138
          have RY_138 := hKq RY_137 hb138
          have Na27_0_138 := hKq Na27_0_137 hb138
          have Na35_0_138 := hKq Na35_0_137 hb138
          have Na54_0_138 := hKq Na54_0_137 hb138
          have Na73_0_138 := hKq Na73_0_137 hb138
          have RZ136_138 := hKq RZ136_137 hb138
          have HF_138 := fCq HF_137 hb138
          have HL_138 := lT HL_137 hb138
          clear hb138 HL_137 RG_137 RX_137 RY_137 Na27_0_137 Na35_0_137 Na54_0_137 Na73_0_137 RZ136_137 HF_137
          simp only [oEC71, Act.put, zA, zB, zC]
          refine opW _ _ (i := 6) (oi := oEC72) rfl (by kernel_rfl) (by rfl) (exec_alloc 23 rfl (.agg (zbs 32)) zero23 W138) (fun _ => (below_alloc W138 _).mono HL_138.out) ?_
          obtain ⟨W139, hW139, hb139, hz139⟩ := alloc_zero W138
          rw [← hW139]
          obtain ⟨g139, hg139⟩ : ∃ g, g = W138.heap.size := ⟨_, rfl⟩
          rw [← hg139] at hz139 ⊢
          have HG139 := gE hg139 HL_138
          have HX139_25 := nXq RG_138 hg139
          have HX139_26 := nXq RX_138 hg139
          have HX139_27 := nXq RY_138 hg139
          have HX139_28 := nXq Na27_0_138 hg139
          have HX139_29 := nXq Na35_0_138 hg139
          have HX139_30 := nXq Na54_0_138 hg139
          have HX139_31 := nXq Na73_0_138 hg139
          have HX139_32 := nXq RZ136_138 hg139
          have RG_139 := hKq RG_138 hb139
          have RX_139 := hKq RX_138 hb139
          have RY_139 := hKq RY_138 hb139
          have Na27_0_139 := hKq Na27_0_138 hb139
          have Na35_0_139 := hKq Na35_0_138 hb139
          have Na54_0_139 := hKq Na54_0_138 hb139
          have Na73_0_139 := hKq Na73_0_138 hb139
          have RZ136_139 := hKq RZ136_138 hb139
          have HF_139 := fCq HF_138 hb139
          have HL_139 := lT HL_138 hb139
          have RZ139_139 := zrq hz139
          clear hb139 hz139 hg139 hW139 HL_138 RG_138 RX_138 RY_138 Na27_0_138 Na35_0_138 Na54_0_138 Na73_0_138 RZ136_138 HF_138
          simp only [oEC72, Act.put, zA, zB, zC]
          refine storeW_F (i := 8) (oi := oEC74) rfl (by kernel_rfl) (by rfl) (.tmp 10) (.tmp 72) rfl (g139) 0 0 rfl [0] ox rfl rfl RZ139_139.out (show 0 < 1 by omega) rfl ?_
          intro W140 hr140 hg140 hz140
          simp only [oEC74, Act.put, zA, zB, zC]
          have RG_140 := hGq RG_139 hg140 HX139_25
          have RX_140 := hGq RX_139 hg140 HX139_26
          have RY_140 := hGq RY_139 hg140 HX139_27
          have Na27_0_140 := hGq Na27_0_139 hg140 HX139_28
          have Na35_0_140 := hGq Na35_0_139 hg140 HX139_29
          have Na54_0_140 := hGq Na54_0_139 hg140 HX139_30
          have Na73_0_140 := hGq Na73_0_139 hg140 HX139_31
          have RZ136_140 := hGq RZ136_139 hg140 HX139_32
          have RZ139_140 : Hid (RAt W140 g139 [ox]) := Lib.hid hr140
          have HF_140 := fNq HF_139 hg140 HG139 HLO92
          have HL_140 := lG HL_139 hg140
          clear hr140 hg140 hz140 HL_139 RG_139 RX_139 RY_139 Na27_0_139 Na35_0_139 Na54_0_139 Na73_0_139 RZ136_139 RZ139_139 HF_139
          refine storeW_F (i := 9) (oi := oEC75) rfl (by kernel_rfl) (by rfl) (.tmp 11) (.tmp 75) rfl (g136) 0 0 rfl [0] oy rfl rfl RZ136_140.out (show 0 < 1 by omega) rfl ?_
          intro W141 hr141 hg141 hz141
          simp only [oEC75, Act.put, zA, zB, zC]
          have RG_141 := hGq RG_140 hg141 HX136_18
          have RX_141 := hGq RX_140 hg141 HX136_19
          have RY_141 := hGq RY_140 hg141 HX136_20
          have Na27_0_141 := hGq Na27_0_140 hg141 HX136_21
          have Na35_0_141 := hGq Na35_0_140 hg141 HX136_22
          have Na54_0_141 := hGq Na54_0_140 hg141 HX136_23
          have Na73_0_141 := hGq Na73_0_140 hg141 HX136_24
          have RZ136_141 : Hid (RAt W141 g136 [oy]) := Lib.hid hr141
          have RZ139_141 := hGq RZ139_140 hg141 HX139_32
          have HF_141 := fNq HF_140 hg141 HG136 HLO92
          have HL_141 := lG HL_140 hg141
          clear hr141 hg141 hz141 HL_140 RG_140 RX_140 RY_140 Na27_0_140 Na35_0_140 Na54_0_140 Na73_0_140 RZ136_140 RZ139_140 HF_140
          refine doneW (by kernel_rfl) ⟨rfl, ?_⟩ _
          exact ⟨g139, g136, RG_141.out, RX_141.out, RY_141.out, Na27_0_141.out, Na35_0_141.out, Na54_0_141.out, Na73_0_141.out, RZ139_141.out, RZ136_141.out, HG139.out, HG136.out, (by have := HX139_32.out; omega), HF_141.out, rfl⟩
        · refine wpOp_value (i := 6) (oi := oEC72) rfl (by rfl) (exec_alloc 23 rfl (.agg (zbs 32)) zero23 W137) ⟨fun _ => (below_alloc W137 _).mono HL_137.out, ?_⟩
          obtain ⟨W142, hW142, hb142, hz142⟩ := alloc_zero W137
          rw [← hW142]
          obtain ⟨g142, hg142⟩ : ∃ g, g = W137.heap.size := ⟨_, rfl⟩
          rw [← hg142] at hz142 ⊢
          have HG142 := gE hg142 HL_137
          have HX142_25 := nXq RG_137 hg142
          have HX142_26 := nXq RX_137 hg142
          have HX142_27 := nXq RY_137 hg142
          have HX142_28 := nXq Na27_0_137 hg142
          have HX142_29 := nXq Na35_0_137 hg142
          have HX142_30 := nXq Na54_0_137 hg142
          have HX142_31 := nXq Na73_0_137 hg142
          have HX142_32 := nXq RZ136_137 hg142
          have RG_142 := hKq RG_137 hb142
          have RX_142 := hKq RX_137 hb142
          have RY_142 := hKq RY_137 hb142
          have Na27_0_142 := hKq Na27_0_137 hb142
          have Na35_0_142 := hKq Na35_0_137 hb142
          have Na54_0_142 := hKq Na54_0_137 hb142
          have Na73_0_142 := hKq Na73_0_137 hb142
          have RZ136_142 := hKq RZ136_137 hb142
          have HF_142 := fCq HF_137 hb142
          have HL_142 := lT HL_137 hb142
          have RZ142_142 := zrq hz142
          clear hb142 hz142 hg142 hW142 HL_137 RG_137 RX_137 RY_137 Na27_0_137 Na35_0_137 Na54_0_137 Na73_0_137 RZ136_137 HF_137
          simp only [oEC72, Act.put, zA, zB, zC]
          refine callW (i := 5) (oi := oEC71) rfl (by kernel_rfl) (by rfl) (exec_callL 21 [.tmp 73, .tmp 74] #[23, 23] rfl [vN one, vN d] rfl (CG21 _)) ((C11.out W142).mono ?_)
          rintro e143 W143 ⟨rfl, hb143⟩
          refine ⟨_, rfl, fun _ => hb143.mono HL_142.out, ?_⟩
          have RG_143 := hKq RG_142 hb143
          have RX_143 := hKq RX_142 hb143
          have RY_143 := hKq RY_142 hb143
          have Na27_0_143 := hKq Na27_0_142 hb143
          have Na35_0_143 := hKq Na35_0_142 hb143
          have Na54_0_143 := hKq Na54_0_142 hb143
          have Na73_0_143 := hKq Na73_0_142 hb143
          have RZ136_143 := hKq RZ136_142 hb143
          have RZ142_143 := hKq RZ142_142 hb143
          have HF_143 := fCq HF_142 hb143
          have HL_143 := lT HL_142 hb143
          clear hb143 HL_142 RG_142 RX_142 RY_142 Na27_0_142 Na35_0_142 Na54_0_142 Na73_0_142 RZ136_142 RZ142_142 HF_142
          simp only [oEC71, Act.put, zA, zB, zC]
          refine storeW_F (i := 8) (oi := oEC74) rfl (by kernel_rfl) (by rfl) (.tmp 10) (.tmp 72) rfl (g142) 0 0 rfl [0] ox rfl rfl RZ142_143.out (show 0 < 1 by omega) rfl ?_
          intro W144 hr144 hg144 hz144
          simp only [oEC74, Act.put, zA, zB, zC]
          have RG_144 := hGq RG_143 hg144 HX142_25
          have RX_144 := hGq RX_143 hg144 HX142_26
          have RY_144 := hGq RY_143 hg144 HX142_27
          have Na27_0_144 := hGq Na27_0_143 hg144 HX142_28
          have Na35_0_144 := hGq Na35_0_143 hg144 HX142_29
          have Na54_0_144 := hGq Na54_0_143 hg144 HX142_30
          have Na73_0_144 := hGq Na73_0_143 hg144 HX142_31
          have RZ136_144 := hGq RZ136_143 hg144 HX142_32
          have RZ142_144 : Hid (RAt W144 g142 [ox]) := Lib.hid hr144
          have HF_144 := fNq HF_143 hg144 HG142 HLO92
          have HL_144 := lG HL_143 hg144
          clear hr144 hg144 hz144 HL_143 RG_143 RX_143 RY_143 Na27_0_143 Na35_0_143 Na54_0_143 Na73_0_143 RZ136_143 RZ142_143 HF_143
          refine storeW_F (i := 9) (oi := oEC75) rfl (by kernel_rfl) (by rfl) (.tmp 11) (.tmp 75) rfl (g136) 0 0 rfl [0] oy rfl rfl RZ136_144.out (show 0 < 1 by omega) rfl ?_
          intro W145 hr145 hg145 hz145
          simp only [oEC75, Act.put, zA, zB, zC]
          have RG_145 := hGq RG_144 hg145 HX136_18
          have RX_145 := hGq RX_144 hg145 HX136_19
          have RY_145 := hGq RY_144 hg145 HX136_20
          have Na27_0_145 := hGq Na27_0_144 hg145 HX136_21
          have Na35_0_145 := hGq Na35_0_144 hg145 HX136_22
          have Na54_0_145 := hGq Na54_0_144 hg145 HX136_23
          have Na73_0_145 := hGq Na73_0_144 hg145 HX136_24
          have RZ136_145 : Hid (RAt W145 g136 [oy]) := Lib.hid hr145
          have RZ142_145 := hGq RZ142_144 hg145 HX142_32
          have HF_145 := fNq HF_144 hg145 HG136 HLO92
          have HL_145 := lG HL_144 hg145
          clear hr145 hg145 hz145 HL_144 RG_144 RX_144 RY_144 Na27_0_144 Na35_0_144 Na54_0_144 Na73_0_144 RZ136_144 RZ142_144 HF_144
          refine doneW (by kernel_rfl) ⟨rfl, ?_⟩ _
          exact ⟨g142, g136, RG_145.out, RX_145.out, RY_145.out, Na27_0_145.out, Na35_0_145.out, Na54_0_145.out, Na73_0_145.out, RZ142_145.out, RZ136_145.out, HG142.out, HG136.out, (by have := HX142_32.out; omega), HF_145.out, rfl⟩
      · refine wpOp_value (i := 6) (oi := oEC72) rfl (by rfl) (exec_alloc 23 rfl (.agg (zbs 32)) zero23 W136) ⟨fun _ => (below_alloc W136 _).mono HL_136.out, ?_⟩
        obtain ⟨W146, hW146, hb146, hz146⟩ := alloc_zero W136
        rw [← hW146]
        obtain ⟨g146, hg146⟩ : ∃ g, g = W136.heap.size := ⟨_, rfl⟩
        rw [← hg146] at hz146 ⊢
        have HG146 := gE hg146 HL_136
        have HX146_25 := nXq RG_136 hg146
        have HX146_26 := nXq RX_136 hg146
        have HX146_27 := nXq RY_136 hg146
        have HX146_28 := nXq Na27_0_136 hg146
        have HX146_29 := nXq Na35_0_136 hg146
        have HX146_30 := nXq Na54_0_136 hg146
        have HX146_31 := nXq Na73_0_136 hg146
        have HX146_32 := nXq RZ136_136 hg146
        have RG_146 := hKq RG_136 hb146
        have RX_146 := hKq RX_136 hb146
        have RY_146 := hKq RY_136 hb146
        have Na27_0_146 := hKq Na27_0_136 hb146
        have Na35_0_146 := hKq Na35_0_136 hb146
        have Na54_0_146 := hKq Na54_0_136 hb146
        have Na73_0_146 := hKq Na73_0_136 hb146
        have RZ136_146 := hKq RZ136_136 hb146
        have HF_146 := fCq HF_136 hb146
        have HL_146 := lT HL_136 hb146
        have RZ146_146 := zrq hz146
        clear hb146 hz146 hg146 hW146 HL_136 RG_136 RX_136 RY_136 Na27_0_136 Na35_0_136 Na54_0_136 Na73_0_136 RZ136_136 HF_136
        simp only [oEC72, Act.put, zA, zB, zC]
        refine callW (i := 2) (oi := oEC70) rfl (by kernel_rfl) (by rfl) (exec_callL 19 [.tmp 70, .tmp 71] #[23, 23] rfl [vN one, vN d] rfl (CG19 _)) ((C10.out W146).mono ?_)
        rintro e147 W147 ⟨rfl, hb147⟩
        refine ⟨_, rfl, fun _ => hb147.mono HL_146.out, ?_⟩
        have RG_147 := hKq RG_146 hb147
        have RX_147 := hKq RX_146 hb147
        have RY_147 := hKq RY_146 hb147
        have Na27_0_147 := hKq Na27_0_146 hb147
        have Na35_0_147 := hKq Na35_0_146 hb147
        have Na54_0_147 := hKq Na54_0_146 hb147
        have Na73_0_147 := hKq Na73_0_146 hb147
        have RZ136_147 := hKq RZ136_146 hb147
        have RZ146_147 := hKq RZ146_146 hb147
        have HF_147 := fCq HF_146 hb147
        have HL_147 := lT HL_146 hb147
        clear hb147 HL_146 RG_146 RX_146 RY_146 Na27_0_146 Na35_0_146 Na54_0_146 Na73_0_146 RZ136_146 RZ146_146 HF_146
        simp only [oEC70, Act.put, zA, zB, zC]
        refine callW (i := 5) (oi := oEC71) rfl (by kernel_rfl) (by rfl) (exec_callL 21 [.tmp 73, .tmp 74] #[23, 23] rfl [vN one, vN d] rfl (CG21 _)) ((C11.out W147).mono ?_)
        rintro e148 W148 ⟨rfl, hb148⟩
        refine ⟨_, rfl, fun _ => hb148.mono HL_147.out, ?_⟩
        have RG_148 := hKq RG_147 hb148
        have RX_148 := hKq RX_147 hb148
        have RY_148 := hKq RY_147 hb148
        have Na27_0_148 := hKq Na27_0_147 hb148
        have Na35_0_148 := hKq Na35_0_147 hb148
        have Na54_0_148 := hKq Na54_0_147 hb148
        have Na73_0_148 := hKq Na73_0_147 hb148
        have RZ136_148 := hKq RZ136_147 hb148
        have RZ146_148 := hKq RZ146_147 hb148
        have HF_148 := fCq HF_147 hb148
        have HL_148 := lT HL_147 hb148
        clear hb148 HL_147 RG_147 RX_147 RY_147 Na27_0_147 Na35_0_147 Na54_0_147 Na73_0_147 RZ136_147 RZ146_147 HF_147
        simp only [oEC71, Act.put, zA, zB, zC]
        refine storeW_F (i := 8) (oi := oEC74) rfl (by kernel_rfl) (by rfl) (.tmp 10) (.tmp 72) rfl (g146) 0 0 rfl [0] ox rfl rfl RZ146_148.out (show 0 < 1 by omega) rfl ?_
        intro W149 hr149 hg149 hz149
        simp only [oEC74, Act.put, zA, zB, zC]
        have RG_149 := hGq RG_148 hg149 HX146_25
        have RX_149 := hGq RX_148 hg149 HX146_26
        have RY_149 := hGq RY_148 hg149 HX146_27
        have Na27_0_149 := hGq Na27_0_148 hg149 HX146_28
        have Na35_0_149 := hGq Na35_0_148 hg149 HX146_29
        have Na54_0_149 := hGq Na54_0_148 hg149 HX146_30
        have Na73_0_149 := hGq Na73_0_148 hg149 HX146_31
        have RZ136_149 := hGq RZ136_148 hg149 HX146_32
        have RZ146_149 : Hid (RAt W149 g146 [ox]) := Lib.hid hr149
        have HF_149 := fNq HF_148 hg149 HG146 HLO92
        have HL_149 := lG HL_148 hg149
        clear hr149 hg149 hz149 HL_148 RG_148 RX_148 RY_148 Na27_0_148 Na35_0_148 Na54_0_148 Na73_0_148 RZ136_148 RZ146_148 HF_148
        refine storeW_F (i := 9) (oi := oEC75) rfl (by kernel_rfl) (by rfl) (.tmp 11) (.tmp 75) rfl (g136) 0 0 rfl [0] oy rfl rfl RZ136_149.out (show 0 < 1 by omega) rfl ?_
        intro W150 hr150 hg150 hz150
        simp only [oEC75, Act.put, zA, zB, zC]
        have RG_150 := hGq RG_149 hg150 HX136_18
        have RX_150 := hGq RX_149 hg150 HX136_19
        have RY_150 := hGq RY_149 hg150 HX136_20
        have Na27_0_150 := hGq Na27_0_149 hg150 HX136_21
        have Na35_0_150 := hGq Na35_0_149 hg150 HX136_22
        have Na54_0_150 := hGq Na54_0_149 hg150 HX136_23
        have Na73_0_150 := hGq Na73_0_149 hg150 HX136_24
        have RZ136_150 : Hid (RAt W150 g136 [oy]) := Lib.hid hr150
        have RZ146_150 := hGq RZ146_149 hg150 HX146_32
        have HF_150 := fNq HF_149 hg150 HG136 HLO92
        have HL_150 := lG HL_149 hg150
        clear hr150 hg150 hz150 HL_149 RG_149 RX_149 RY_149 Na27_0_149 Na35_0_149 Na54_0_149 Na73_0_149 RZ136_149 RZ146_149 HF_149
        refine doneW (by kernel_rfl) ⟨rfl, ?_⟩ _
        exact ⟨g146, g136, RG_150.out, RX_150.out, RY_150.out, Na27_0_150.out, Na35_0_150.out, Na54_0_150.out, Na73_0_150.out, RZ146_150.out, RZ136_150.out, HG146.out, HG136.out, (by have := HX146_32.out; omega), HF_150.out, rfl⟩
  rintro a' v151 ⟨a92_0, a92_1, h0, h1, h2, h3, h4, h5, h6, h7, h8, k0, k1, q0, hF, rfl⟩
  have RG_151 := Lib.hid h0
  have RX_151 := Lib.hid h1
  have RY_151 := Lib.hid h2
  have Na27_0_151 := Lib.hid h3
  have Na35_0_151 := Lib.hid h4
  have Na54_0_151 := Lib.hid h5
  have Na73_0_151 := Lib.hid h6
  have Na92_0_151 := Lib.hid h7
  have Na92_1_151 := Lib.hid h8
  have HNE151_18 : Hid (g ≠ a92_0) := Lib.hid (by have := HLT92_0.out; omega)
  have HNE151_19 : Hid (gp ≠ a92_0) := Lib.hid (by have := HLT92_1.out; omega)
  have HNE151_20 : Hid (gq ≠ a92_0) := Lib.hid (by have := HLT92_2.out; omega)
  have HNE151_21 : Hid (a27_0 ≠ a92_0) := Lib.hid (by have := HLT92_3.out; omega)
  have HNE151_22 : Hid (a35_0 ≠ a92_0) := Lib.hid (by have := HLT92_4.out; omega)
  have HNE151_23 : Hid (a54_0 ≠ a92_0) := Lib.hid (by have := HLT92_5.out; omega)
  have HNE151_24 : Hid (a73_0 ≠ a92_0) := Lib.hid (by have := HLT92_6.out; omega)
  have HGE151_0 : Hid (w.heap.size ≤ a92_0) := Lib.hid (by have := HLO92.out; omega)
  have HNE151_25 : Hid (g ≠ a92_1) := Lib.hid (by have := HLT92_0.out; omega)
  have HNE151_26 : Hid (gp ≠ a92_1) := Lib.hid (by have := HLT92_1.out; omega)
  have HNE151_27 : Hid (gq ≠ a92_1) := Lib.hid (by have := HLT92_2.out; omega)
  have HNE151_28 : Hid (a27_0 ≠ a92_1) := Lib.hid (by have := HLT92_3.out; omega)
  have HNE151_29 : Hid (a35_0 ≠ a92_1) := Lib.hid (by have := HLT92_4.out; omega)
  have HNE151_30 : Hid (a54_0 ≠ a92_1) := Lib.hid (by have := HLT92_5.out; omega)
  have HNE151_31 : Hid (a73_0 ≠ a92_1) := Lib.hid (by have := HLT92_6.out; omega)
  have HGE151_1 : Hid (w.heap.size ≤ a92_1) := Lib.hid (by have := HLO92.out; omega)
  have HNE151_32 := Lib.hid q0
  have HF_151 := Lib.hid hF
  clear h0 h1 h2 h3 h4 h5 h6 h7 h8 k0 k1 q0 hF HLT92_0 HLT92_1 HLT92_2 HLT92_3 HLT92_4 HLT92_5 HLT92_6 HLO92 RG_91 RX_91 RY_91 Na27_0_91 Na35_0_91 Na54_0_91 Na73_0_91 HF_91
  go_wp2_with fail
  refine (HD.out _ _ _ _ _ RG_151.out Na54_0_151.out Na92_0_151.out Na73_0_151.out Na92_1_151.out HNE72_7.out HNE151_18.out HNE91_12.out HNE151_25.out).mono ?_
  rintro e we ⟨rfl, hr, hk⟩
  have HKE := Lib.hid (HF_151.out.trans hk)
  have HRE := Lib.hid hr
  clear hr hk RG_151 RX_151 RY_151 Na27_0_151 Na35_0_151 Na54_0_151 Na73_0_151 Na92_0_151 Na92_1_151 HF_151
  go_wp2_with fail
  refine bodyPost_end (results_none rfl _ _ _) rfl ?_
  exact ⟨rfl, HRE.out, HKE.out⟩
end Go.Proofs.Ytgdimnbdnepbgaa
/- The group of a twisted Edwards curve, over residues modulo any n that make a field. No statement is proved here. -/
namespace Go.Proofs.Ytgdimnbdnepbgaa
set_option linter.unusedVariables false

/-- A field with a root of -1, and a d that is no square. -/
structure Ed (n : Nat) [NeZero n] where
  inv : Fin n → Fin n
  d : Fin n
  i : Fin n
  nz : ∀ a b : Fin n, a * b = 0 → a = 0 ∨ b = 0
  hinv : ∀ a : Fin n, a ≠ 0 → a * inv a = 1
  hi : i * i = -1
  h1 : (1 : Fin n) ≠ 0
  h2 : (1 + 1 : Fin n) ≠ 0
  hd : ∀ x : Fin n, x * x ≠ d
namespace Ed
variable {n : Nat} [NeZero n]
theorem cancel (E : Ed n) {a b c : Fin n} (ha : a ≠ 0) (h : a * b = a * c) : b = c := by
  have h0 : a * (b - c) = 0 := by grind
  rcases E.nz _ _ h0 with h | h
  · exact absurd h ha
  · grind
theorem mul_ne (E : Ed n) {a b : Fin n} (ha : a ≠ 0) (hb : b ≠ 0) : a * b ≠ 0 := fun h => by
  rcases E.nz _ _ h with h | h
  · exact ha h
  · exact hb h
theorem inv_one (E : Ed n) : E.inv 1 = 1 := by
  have := E.hinv 1 E.h1
  grind
theorem inv_mul (E : Ed n) {a b : Fin n} (ha : a ≠ 0) (hb : b ≠ 0) : b * E.inv (a * b) = E.inv a := by
  have h1 := E.hinv _ (E.mul_ne ha hb)
  have h2 := E.hinv _ ha
  apply E.cancel ha
  grind
/-- On the curve. -/
def On (E : Ed n) (x y : Fin n) : Prop := y * y - x * x = 1 + E.d * (x * x * (y * y))
theorem no_root (E : Ed n) {w s u : Fin n} (h : w * w = E.d * (s * u) * (s * u)) (hs : s ≠ 0) (hu : u ≠ 0) : False := by
  have hsu := E.mul_ne hs hu
  have h1 := E.hinv _ hsu
  refine E.hd (w * E.inv (s * u)) ?_
  have : (w * E.inv (s * u)) * (w * E.inv (s * u)) = (w * w) * (E.inv (s * u) * E.inv (s * u)) := by grind
  rw [this, h]
  grind
/-- The denominators are never 0. -/
theorem full (E : Ed n) {x1 y1 x2 y2 e : Fin n} (h1 : E.On x1 y1) (h2 : E.On x2 y2) (he : e * e = 1) : E.d * (x1 * y1 * (x2 * y2)) ≠ e := by
  intro h
  unfold On at h1 h2
  have he0 : e ≠ 0 := fun h0 => E.h1 (by rw [← he, h0]; grind)
  have hs : x1 * y1 ≠ 0 := fun h0 => he0 (by rw [← h, h0]; grind)
  have ht : x2 * y2 ≠ 0 := fun h0 => he0 (by rw [← h, h0]; grind)
  have hii := E.hi
  have a1 : (E.i * x1 + e * y1) * (E.i * x1 + e * y1) = E.d * (x1 * y1 * (E.i * x2 + y2)) * (x1 * y1 * (E.i * x2 + y2)) := by grind
  have a2 : (E.i * x1 - e * y1) * (E.i * x1 - e * y1) = E.d * (x1 * y1 * (E.i * x2 - y2)) * (x1 * y1 * (E.i * x2 - y2)) := by grind
  have b1 : E.i * x2 + y2 = 0 := Classical.byContradiction fun hu => E.no_root a1 hs hu
  have b2 : E.i * x2 - y2 = 0 := Classical.byContradiction fun hu => E.no_root a2 hs hu
  have b3 : (1 + 1) * y2 = 0 := by grind
  rcases E.nz _ _ b3 with h0 | h0
  · exact E.h2 h0
  · exact ht (by rw [h0]; grind)
theorem den1 (E : Ed n) {x1 y1 x2 y2 : Fin n} (h1 : E.On x1 y1) (h2 : E.On x2 y2) : 1 + E.d * (x1 * y1 * (x2 * y2)) ≠ 0 := fun h => E.full h1 h2 (e := -1) (by grind) (by grind)
theorem den2 (E : Ed n) {x1 y1 x2 y2 : Fin n} (h1 : E.On x1 y1) (h2 : E.On x2 y2) : 1 - E.d * (x1 * y1 * (x2 * y2)) ≠ 0 := fun h => E.full h1 h2 (e := 1) (by grind) (by grind)
/-- The sum. -/
def sx (E : Ed n) (x1 y1 x2 y2 : Fin n) : Fin n := (x1 * y2 + y1 * x2) * E.inv (1 + E.d * (x1 * y1 * (x2 * y2)))
def sy (E : Ed n) (x1 y1 x2 y2 : Fin n) : Fin n := (y1 * y2 + x1 * x2) * E.inv (1 - E.d * (x1 * y1 * (x2 * y2)))
theorem sx_eq (E : Ed n) {x1 y1 x2 y2 : Fin n} (h1 : E.On x1 y1) (h2 : E.On x2 y2) : E.sx x1 y1 x2 y2 * (1 + E.d * (x1 * y1 * (x2 * y2))) = x1 * y2 + y1 * x2 := by
  have := E.hinv _ (E.den1 h1 h2)
  unfold sx
  generalize E.inv (1 + E.d * (x1 * y1 * (x2 * y2))) = v at *
  grind
theorem sy_eq (E : Ed n) {x1 y1 x2 y2 : Fin n} (h1 : E.On x1 y1) (h2 : E.On x2 y2) : E.sy x1 y1 x2 y2 * (1 - E.d * (x1 * y1 * (x2 * y2))) = y1 * y2 + x1 * x2 := by
  have := E.hinv _ (E.den2 h1 h2)
  unfold sy
  generalize E.inv (1 - E.d * (x1 * y1 * (x2 * y2))) = v at *
  grind
theorem clos {x1 y1 x2 y2 d : Fin n} (h1 : y1*y1 - x1*x1 = 1 + d*(x1*x1*(y1*y1))) (h2 : y2*y2 - x2*x2 = 1 + d*(x2*x2*(y2*y2))) :
  (y1*y2+x1*x2)*(y1*y2+x1*x2)*(1+d*(x1*y1*(x2*y2)))*(1+d*(x1*y1*(x2*y2))) - (x1*y2+y1*x2)*(x1*y2+y1*x2)*(1-d*(x1*y1*(x2*y2)))*(1-d*(x1*y1*(x2*y2)))
   = (1-d*(x1*y1*(x2*y2)))*(1-d*(x1*y1*(x2*y2)))*(1+d*(x1*y1*(x2*y2)))*(1+d*(x1*y1*(x2*y2))) + d * (y1*y2+x1*x2)*(y1*y2+x1*x2)*(x1*y2+y1*x2)*(x1*y2+y1*x2) := by grind
theorem On_sum (E : Ed n) {x1 y1 x2 y2 : Fin n} (h1 : E.On x1 y1) (h2 : E.On x2 y2) : E.On (E.sx x1 y1 x2 y2) (E.sy x1 y1 x2 y2) := by
  have e1 := E.sx_eq h1 h2
  have e2 := E.sy_eq h1 h2
  have d1 := E.den1 h1 h2
  have d2 := E.den2 h1 h2
  have k := clos h1 h2
  rw [← e1, ← e2] at k
  unfold On
  generalize E.sx x1 y1 x2 y2 = X at *
  generalize E.sy x1 y1 x2 y2 = Y at *
  generalize 1 + E.d * (x1 * y1 * (x2 * y2)) = B at *
  generalize 1 - E.d * (x1 * y1 * (x2 * y2)) = D at *
  apply E.cancel (E.mul_ne (E.mul_ne d1 d2) (E.mul_ne d1 d2))
  clear e1 e2 h1 h2 d1 d2
  grind
theorem comm_x (E : Ed n) (x1 y1 x2 y2 : Fin n) : E.sx x1 y1 x2 y2 = E.sx x2 y2 x1 y1 := by
  unfold sx
  rw [show x1 * y1 * (x2 * y2) = x2 * y2 * (x1 * y1) by grind, show x1 * y2 + y1 * x2 = x2 * y1 + y2 * x1 by grind]
theorem comm_y (E : Ed n) (x1 y1 x2 y2 : Fin n) : E.sy x1 y1 x2 y2 = E.sy x2 y2 x1 y1 := by
  unfold sy
  rw [show x1 * y1 * (x2 * y2) = x2 * y2 * (x1 * y1) by grind, show y1 * y2 + x1 * x2 = y2 * y1 + x2 * x1 by grind]
theorem assoc_px {x1 y1 x2 y2 x3 y3 d : Fin n} (h1 : y1*y1 - x1*x1 = 1 + d*(x1*x1*(y1*y1))) (h2 : y2*y2 - x2*x2 = 1 + d*(x2*x2*(y2*y2))) (h3 : y3*y3 - x3*x3 = 1 + d*(x3*x3*(y3*y3))) :
  ((x1*y2+y1*x2) * (1-d*(x1*y1*(x2*y2))) * y3 + (y1*y2+x1*x2)*(1+d*(x1*y1*(x2*y2)))*x3) * ((1+d*(x2*y2*(x3*y3)))*(1-d*(x2*y2*(x3*y3))) + d*(x1*y1)*(x2*y3+y2*x3)*(y2*y3+x2*x3)) =
  (x1*(y2*y3+x2*x3)*(1+d*(x2*y2*(x3*y3))) + y1*(x2*y3+y2*x3)*(1-d*(x2*y2*(x3*y3)))) * ((1+d*(x1*y1*(x2*y2)))*(1-d*(x1*y1*(x2*y2))) + d * (x1*y2+y1*x2)*(y1*y2+x1*x2)*(x3*y3)) := by grind
theorem assoc_py {x1 y1 x2 y2 x3 y3 d : Fin n} (h1 : y1*y1 - x1*x1 = 1 + d*(x1*x1*(y1*y1))) (h2 : y2*y2 - x2*x2 = 1 + d*(x2*x2*(y2*y2))) (h3 : y3*y3 - x3*x3 = 1 + d*(x3*x3*(y3*y3))) :
  ((y1*y2+x1*x2)*(1+d*(x1*y1*(x2*y2)))*y3 + (x1*y2+y1*x2) * (1-d*(x1*y1*(x2*y2))) * x3) * ((1+d*(x2*y2*(x3*y3)))*(1-d*(x2*y2*(x3*y3))) - d*(x1*y1)*(x2*y3+y2*x3)*(y2*y3+x2*x3)) =
  (y1*(y2*y3+x2*x3)*(1+d*(x2*y2*(x3*y3))) + x1*(x2*y3+y2*x3)*(1-d*(x2*y2*(x3*y3)))) * ((1+d*(x1*y1*(x2*y2)))*(1-d*(x1*y1*(x2*y2))) - d * (x1*y2+y1*x2)*(y1*y2+x1*x2)*(x3*y3)) := by grind
/-- From two quotients to the sum of both with a third point. -/
theorem quot {A B C D X Y x y e S : Fin n} (hB : B ≠ 0) (hD : D ≠ 0) (e1 : X * B = A) (e2 : Y * D = C) (hM : S * (1 + e * (X * Y * (x * y))) = X * y + Y * x) : S * (B * D + e * A * C * (x * y)) = A * D * y + C * B * x := by
  subst e1
  subst e2
  have : S * (B * D + e * (X * B) * (Y * D) * (x * y)) = B * D * (S * (1 + e * (X * Y * (x * y)))) := by grind
  rw [this, hM]
  grind
theorem quot2 {A B C D X Y x y e S : Fin n} (e1 : X * B = A) (e2 : Y * D = C) (hM : S * (1 - e * (X * Y * (x * y))) = Y * y + X * x) : S * (B * D - e * A * C * (x * y)) = C * B * y + A * D * x := by
  subst e1
  subst e2
  have : S * (B * D - e * (X * B) * (Y * D) * (x * y)) = B * D * (S * (1 - e * (X * Y * (x * y)))) := by grind
  rw [this, hM]
  grind
theorem cross (E : Ed n) {S T M1 M2 N1 N2 : Fin n} (h1 : M1 ≠ 0) (h2 : M2 ≠ 0) (e1 : S * M1 = N1) (e2 : T * M2 = N2) (h : N1 * M2 = N2 * M1) : S = T := by
  subst e1
  subst e2
  apply E.cancel (E.mul_ne h1 h2)
  grind
theorem denq (E : Ed n) {A B C D X Y x y e : Fin n} (hB : B ≠ 0) (hD : D ≠ 0) (e1 : X * B = A) (e2 : Y * D = C) (h : 1 + e * (X * Y * (x * y)) ≠ 0) : B * D + e * A * C * (x * y) ≠ 0 := by
  subst e1
  subst e2
  have : B * D + e * (X * B) * (Y * D) * (x * y) = B * D * (1 + e * (X * Y * (x * y))) := by grind
  rw [this]
  exact E.mul_ne (E.mul_ne hB hD) h
theorem denq2 (E : Ed n) {A B C D X Y x y e : Fin n} (hB : B ≠ 0) (hD : D ≠ 0) (e1 : X * B = A) (e2 : Y * D = C) (h : 1 - e * (X * Y * (x * y)) ≠ 0) : B * D - e * A * C * (x * y) ≠ 0 := by
  subst e1
  subst e2
  have : B * D - e * (X * B) * (Y * D) * (x * y) = B * D * (1 - e * (X * Y * (x * y))) := by grind
  rw [this]
  exact E.mul_ne (E.mul_ne hB hD) h
theorem assoc_x (E : Ed n) {x1 y1 x2 y2 x3 y3 : Fin n} (h1 : E.On x1 y1) (h2 : E.On x2 y2) (h3 : E.On x3 y3) :
    E.sx (E.sx x1 y1 x2 y2) (E.sy x1 y1 x2 y2) x3 y3 = E.sx x1 y1 (E.sx x2 y2 x3 y3) (E.sy x2 y2 x3 y3) := by
  have o4 := E.On_sum h1 h2
  have o5 := E.On_sum h2 h3
  have q4 := quot (E.den1 h1 h2) (E.den2 h1 h2) (E.sx_eq h1 h2) (E.sy_eq h1 h2) (E.sx_eq o4 h3)
  have n4 := E.denq (E.den1 h1 h2) (E.den2 h1 h2) (E.sx_eq h1 h2) (E.sy_eq h1 h2) (E.den1 o4 h3)
  have q5 := quot (E.den1 h2 h3) (E.den2 h2 h3) (E.sx_eq h2 h3) (E.sy_eq h2 h3) (E.sx_eq o5 h1)
  have n5 := E.denq (E.den1 h2 h3) (E.den2 h2 h3) (E.sx_eq h2 h3) (E.sy_eq h2 h3) (E.den1 o5 h1)
  rw [E.comm_x x1 y1 (E.sx x2 y2 x3 y3) (E.sy x2 y2 x3 y3)]
  refine E.cross n4 n5 q4 q5 ?_
  have p := assoc_px h1 h2 h3
  clear q4 n4 q5 n5 o4 o5 h1 h2 h3
  generalize 1 + E.d * (x1 * y1 * (x2 * y2)) = B at *
  generalize 1 - E.d * (x1 * y1 * (x2 * y2)) = D at *
  generalize 1 + E.d * (x2 * y2 * (x3 * y3)) = B' at *
  generalize 1 - E.d * (x2 * y2 * (x3 * y3)) = D' at *
  generalize x1 * y2 + y1 * x2 = A at *
  generalize y1 * y2 + x1 * x2 = C at *
  generalize x2 * y3 + y2 * x3 = A' at *
  generalize y2 * y3 + x2 * x3 = C' at *
  grind
theorem assoc_y (E : Ed n) {x1 y1 x2 y2 x3 y3 : Fin n} (h1 : E.On x1 y1) (h2 : E.On x2 y2) (h3 : E.On x3 y3) :
    E.sy (E.sx x1 y1 x2 y2) (E.sy x1 y1 x2 y2) x3 y3 = E.sy x1 y1 (E.sx x2 y2 x3 y3) (E.sy x2 y2 x3 y3) := by
  have o4 := E.On_sum h1 h2
  have o5 := E.On_sum h2 h3
  have q4 := quot2 (E.sx_eq h1 h2) (E.sy_eq h1 h2) (E.sy_eq o4 h3)
  have n4 := E.denq2 (E.den1 h1 h2) (E.den2 h1 h2) (E.sx_eq h1 h2) (E.sy_eq h1 h2) (E.den2 o4 h3)
  have q5 := quot2 (E.sx_eq h2 h3) (E.sy_eq h2 h3) (E.sy_eq o5 h1)
  have n5 := E.denq2 (E.den1 h2 h3) (E.den2 h2 h3) (E.sx_eq h2 h3) (E.sy_eq h2 h3) (E.den2 o5 h1)
  rw [E.comm_y x1 y1 (E.sx x2 y2 x3 y3) (E.sy x2 y2 x3 y3)]
  refine E.cross n4 n5 q4 q5 ?_
  have p := assoc_py h1 h2 h3
  clear q4 n4 q5 n5 o4 o5 h1 h2 h3
  generalize 1 + E.d * (x1 * y1 * (x2 * y2)) = B at *
  generalize 1 - E.d * (x1 * y1 * (x2 * y2)) = D at *
  generalize 1 + E.d * (x2 * y2 * (x3 * y3)) = B' at *
  generalize 1 - E.d * (x2 * y2 * (x3 * y3)) = D' at *
  generalize x1 * y2 + y1 * x2 = A at *
  generalize y1 * y2 + x1 * x2 = C at *
  generalize x2 * y3 + y2 * x3 = A' at *
  generalize y2 * y3 + x2 * x3 = C' at *
  grind
theorem On_zero (E : Ed n) : E.On 0 1 := by unfold On; grind
theorem zero_x (E : Ed n) (x y : Fin n) : E.sx x y 0 1 = x := by
  unfold sx
  rw [show x * y * (0 * 1) = 0 by grind, show (1 + E.d * 0 : Fin n) = 1 by grind, E.inv_one]
  grind
theorem zero_y (E : Ed n) (x y : Fin n) : E.sy x y 0 1 = y := by
  unfold sy
  rw [show x * y * (0 * 1) = 0 by grind, show (1 - E.d * 0 : Fin n) = 1 by grind, E.inv_one]
  grind
theorem On_neg (E : Ed n) {x y : Fin n} (h : E.On x y) : E.On (-x) y := by unfold On at *; grind
theorem neg_x (E : Ed n) (x y : Fin n) : E.sx x y (-x) y = 0 := by
  unfold sx
  rw [show x * y + y * -x = 0 by grind]
  grind
theorem neg_y (E : Ed n) {x y : Fin n} (h : E.On x y) : E.sy x y (-x) y = 1 := by
  have h2 := E.hinv _ (E.den2 h (E.On_neg h))
  unfold sy
  have e : y * y + x * -x = 1 - E.d * (x * y * (-x * y)) := by unfold On at h; grind
  rw [e]
  exact h2

/-- Points. -/
def Pt (E : Ed n) : Type := { p : Fin n × Fin n // E.On p.1 p.2 }
def add (E : Ed n) (p q : E.Pt) : E.Pt := ⟨(E.sx p.1.1 p.1.2 q.1.1 q.1.2, E.sy p.1.1 p.1.2 q.1.1 q.1.2), E.On_sum p.2 q.2⟩
def zero (E : Ed n) : E.Pt := ⟨(0, 1), E.On_zero⟩
def neg (E : Ed n) (p : E.Pt) : E.Pt := ⟨(-p.1.1, p.1.2), E.On_neg p.2⟩
theorem add_comm (E : Ed n) (p q : E.Pt) : E.add p q = E.add q p := Subtype.ext (Prod.ext (E.comm_x ..) (E.comm_y ..))
theorem add_assoc (E : Ed n) (p q r : E.Pt) : E.add (E.add p q) r = E.add p (E.add q r) := Subtype.ext (Prod.ext (E.assoc_x p.2 q.2 r.2) (E.assoc_y p.2 q.2 r.2))
theorem add_zero (E : Ed n) (p : E.Pt) : E.add p E.zero = p := Subtype.ext (Prod.ext (E.zero_x ..) (E.zero_y ..))
theorem zero_add (E : Ed n) (p : E.Pt) : E.add E.zero p = p := by rw [E.add_comm, E.add_zero]
theorem add_neg (E : Ed n) (p : E.Pt) : E.add p (E.neg p) = E.zero := Subtype.ext (Prod.ext (E.neg_x ..) (E.neg_y p.2))
theorem neg_add (E : Ed n) (p : E.Pt) : E.add (E.neg p) p = E.zero := by rw [E.add_comm, E.add_neg]
theorem add_neg_cancel (E : Ed n) (p q : E.Pt) : E.add (E.add p q) (E.neg p) = q := by rw [E.add_comm p q, E.add_assoc, E.add_neg, E.add_zero]
theorem neg_uniq (E : Ed n) {p q : E.Pt} (h : E.add p q = E.zero) : q = E.neg p := by
  have := congrArg (fun z => E.add z (E.neg p)) h
  simp only [E.add_neg_cancel, E.zero_add] at this
  exact this
theorem neg_sum (E : Ed n) (p q : E.Pt) : E.neg (E.add p q) = E.add (E.neg p) (E.neg q) := by
  refine (E.neg_uniq ?_).symm
  rw [E.add_assoc, ← E.add_assoc q, E.add_comm q, E.add_assoc (E.neg p), E.add_neg, E.add_zero, E.add_neg]
end Ed
end Go.Proofs.Ytgdimnbdnepbgaa
/- The curve's functions over residues modulo p. No statement is proved here. -/
namespace Go.Proofs.Ytgdimnbdnepbgaa
open Go.RowKit
set_option linter.unusedVariables false
set_option maxRecDepth 40000
set_option linter.unusedSimpArgs false

instance nzP : NeZero PP := ⟨by unfold PP; omega⟩
theorem fT (a : Fin PP) : a.val < TT := Nat.lt_trans a.isLt PP_lt
theorem fz_nz (a b : Fin PP) (h : a * b = 0) : a = 0 ∨ b = 0 := by
  have h1 : a.val * b.val % PP = 0 := by
    have := congrArg Fin.val h
    rwa [Fin.val_mul] at this
  rcases prP.euclid (Nat.dvd_of_mod_eq_zero h1) with h | h
  · left
    apply Fin.ext
    rw [Nat.eq_zero_of_dvd_of_lt h a.isLt]
    rfl
  · right
    apply Fin.ext
    rw [Nat.eq_zero_of_dvd_of_lt h b.isLt]
    rfl
theorem val_ne {a : Fin PP} (h : a ≠ 0) : a.val % PP ≠ 0 := fun h0 => h (by
  apply Fin.ext
  rw [Nat.mod_eq_of_lt a.isLt] at h0
  rw [h0]
  rfl)
theorem inv_ex (a : Fin PP) : ∃ b : Fin PP, (a ≠ 0 → a * b = 1) ∧ (a = 0 → b = 0) ∧ ∀ q, PP = q + 2 → b.val = a.val ^ q % PP := by
  obtain ⟨q, hq⟩ := q_ex
  refine ⟨⟨a.val ^ q % PP, modP _⟩, fun h => ?_, fun h => ?_, fun q' hq' => ?_⟩
  · apply Fin.ext
    rw [Fin.val_mul]
    show a.val * (a.val ^ q % PP) % PP = 1 % PP
    rw [inv_mul q hq a.val (val_ne h), Nat.mod_eq_of_lt (by unfold PP; omega)]
  · apply Fin.ext
    show a.val ^ q % PP = 0
    subst h
    show 0 ^ q % PP = 0
    rw [Nat.zero_pow (by unfold PP at hq; omega), Nat.zero_mod]
  · obtain rfl : q = q' := by omega
    rfl
noncomputable def fInv (a : Fin PP) : Fin PP := Classical.choose (inv_ex a)
theorem fInv_mul {a : Fin PP} (h : a ≠ 0) : a * fInv a = 1 := (Classical.choose_spec (inv_ex a)).1 h
theorem fInv_zero : fInv 0 = 0 := (Classical.choose_spec (inv_ex 0)).2.1 rfl
theorem fInv_val (a : Fin PP) (q : Nat) (hq : PP = q + 2) : (fInv a).val = a.val ^ q % PP := (Classical.choose_spec (inv_ex a)).2.2 q hq
theorem dN_lt : dN < PP := by unfold dN PP; omega
def dF : Fin PP := ⟨dN, dN_lt⟩
def iN : Nat := 19681161376707505956807079304988542015446066515923890162744021073123829784752
theorem iN_lt : iN < PP := by unfold iN PP; omega
def iF : Fin PP := ⟨iN, iN_lt⟩
theorem iN_sq : iN * iN % PP = (PP - 1 % PP) % PP := by decide +kernel
theorem dchi (k : Nat) (hk : PP = 8 * k + 5) : dN ^ (4 * k + 2) % PP = PP - 1 := by
  rw [show 4 * k + 2 = 28948022309329048855892746252171976963317496166410141009864396001978282409974 from by unfold PP at hk; omega]
  have h := pm_eq PP dN 256 28948022309329048855892746252171976963317496166410141009864396001978282409974 (by decide)
  have e : pm PP dN 256 28948022309329048855892746252171976963317496166410141009864396001978282409974 = PP - 1 := by decide +kernel
  exact h.symm.trans e
theorem d_no (x : Fin PP) : x * x ≠ dF := by
  intro h
  obtain ⟨k, hk⟩ := k_ex
  have h1 : x.val * x.val % PP = dN := by
    have := congrArg Fin.val h
    rwa [Fin.val_mul] at this
  have h2 := dchi k hk
  have hx : ¬ PP ∣ x.val := fun hd => by
    have : x.val * x.val % PP = 0 := Nat.mod_eq_zero_of_dvd (Nat.dvd_trans hd ⟨_, rfl⟩)
    rw [this] at h1
    exact absurd h1 (by decide)
  have h3 := fermat1 prP x.val hx
  rw [← h1, ← Nat.pow_mod, show x.val * x.val = x.val ^ 2 from by rw [Nat.pow_succ, Nat.pow_one], ← Nat.pow_mul, show 2 * (4 * k + 2) = PP - 1 from by omega, h3] at h2
  unfold PP at h2
  omega
theorem one_ne : (1 : Fin PP) ≠ 0 := fun h => by
  have := congrArg Fin.val h
  have h1 : (1 : Fin PP).val = 1 % PP := rfl
  have h0 : (0 : Fin PP).val = 0 % PP := rfl
  rw [h1, h0] at this
  unfold PP at this
  omega
theorem two_ne : (1 + 1 : Fin PP) ≠ 0 := fun h => by
  have := congrArg Fin.val h
  have h1 : (1 : Fin PP).val = 1 % PP := rfl
  have h0 : (0 : Fin PP).val = 0 % PP := rfl
  rw [Fin.val_add, h1, h0] at this
  unfold PP at this
  omega
noncomputable def EC : Ed PP where
  inv := fInv
  d := dF
  i := iF
  nz := fz_nz
  hinv := fun a h => fInv_mul h
  hi := Fin.ext (by rw [Fin.val_mul]; exact iN_sq)
  h1 := one_ne
  h2 := two_ne
  hd := d_no

theorem v0 : (0 : Fin PP).val = 0 := rfl
theorem v1 : (1 : Fin PP).val = 1 := by
  have h1 : (1 : Fin PP).val = 1 % PP := rfl
  rw [h1]
  exact Nat.mod_eq_of_lt (by unfold PP; omega)
theorem gives_N {f : FuncId} {args : Array Value} {x y : Nat} {w : World} (e : x = y) (h : Calls Try.prog f args w (Gives (vN x) w)) : Calls Try.prog f args w (Gives (vN y) w) := e ▸ h
theorem gives_V {f : FuncId} {args : Array Value} {x y : Value} {w : World} (e : x = y) (h : Calls Try.prog f args w (Gives x w)) : Calls Try.prog f args w (Gives y w) := e ▸ h
theorem fAdd (a b : Fin PP) (w : World) : Calls Try.prog 19 #[vN a.val, vN b.val] w (Gives (vN (a + b).val) w) := gives_N (Fin.val_add a b).symm (Add_any a.val b.val (fT a) (fT b) w)
theorem fMul (a b : Fin PP) (w : World) : Calls Try.prog 25 #[vN a.val, vN b.val] w (Gives (vN (a * b).val) w) := gives_N (Fin.val_mul a b).symm (Mul_any a.val b.val (fT a) (fT b) w)
theorem fSub (a b : Fin PP) (w : World) : Calls Try.prog 21 #[vN a.val, vN b.val] w (Gives (vN (a - b).val) w) :=
  gives_N (by rw [Fin.sub_def, Nat.mod_eq_of_lt b.isLt, Nat.add_comm]) (Sub_any a.val b.val (fT a) (fT b) w)
theorem fNeg (a : Fin PP) (w : World) : Calls Try.prog 23 #[vN a.val] w (Gives (vN (-a).val) w) :=
  gives_N (by rw [Nat.mod_eq_of_lt a.isLt]; rfl) (Neg_any a.val (fT a) w)
theorem fInvC (a : Fin PP) (w : World) : Calls Try.prog 29 #[vN a.val] w (Gives (vN (fInv a).val) w) := by
  obtain ⟨q, hq⟩ := q_ex
  rw [fInv_val a q hq]
  exact Inv_any q hq a.val (fT a) w
theorem fOne (w : World) : Calls Try.prog 17 #[.int .u64 1] w (Gives (vN (1 : Fin PP).val) w) := gives_N v1.symm (Of_any 1 (by omega) w)
theorem fEq (a b : Fin PP) (w : World) : (Op.equalIn 10000 23 (vN a.val) (vN b.val)).run Try.prog w = .ok (decide (a = b)) w := by
  rw [eqN _ _ (fT a) (fT b) w]
  congr 1
  rw [Bool.eq_iff_iff, decide_eq_true_eq, decide_eq_true_eq]
  exact ⟨Fin.ext, congrArg Fin.val⟩
theorem fCanon (a : Fin PP) (w : World) : Calls Try.prog 15 #[vN a.val] w (Gives (.bool true) w) := by
  have h := Canon_any a.val (fT a) w
  rw [decide_eq_true (Nat.mod_eq_of_lt a.isLt).symm] at h
  exact h
theorem fD (w : World) : Calls Try.prog 45 #[] w (Gives (vN dF.val) w) := D_any w

theorem divide_any (x ox y oy : Fin PP) (r0 r1 r2 r3 : Nat) (w : World) (g g1 g2 g3 g4 : Nat) (h0 : RAt w g [r0, r1, r2, r3]) (h1 : RAt w g1 [x.val]) (h2 : RAt w g2 [ox.val]) (h3 : RAt w g3 [y.val]) (h4 : RAt w g4 [oy.val]) (n1 : g ≠ g1) (n2 : g ≠ g2) (n3 : g ≠ g3) (n4 : g ≠ g4) :
    Calls Try.prog 100 #[.pointer (some ⟨g, 0, none⟩), .pointer (some ⟨g1, 0, none⟩), .pointer (some ⟨g2, 0, none⟩), .pointer (some ⟨g3, 0, none⟩), .pointer (some ⟨g4, 0, none⟩)] w (SetsR g [(x * oy).val, (y * ox).val, (ox * oy).val, (x * y).val] w) :=
  divide_core g g1 g2 g3 g4 r0 r1 r2 r3 _ _ _ _ _ _ _ _ w (Lib.hid (fMul x oy)) (Lib.hid (fMul y ox)) (Lib.hid (fMul ox oy)) (Lib.hid (fMul x y)) (Lib.hid h0) (Lib.hid h1) (Lib.hid h2) (Lib.hid h3) (Lib.hid h4) (Lib.hid n1) (Lib.hid n2) (Lib.hid n3) (Lib.hid n4)
theorem eread_any (x y : Fin PP) (r0 r1 r2 r3 : Nat) (w : World) (g g1 : Nat) (h0 : RAt w g [r0, r1, r2, r3]) (h1 : RAt w g1 [x.val, y.val]) (n1 : g ≠ g1) :
    Calls Try.prog 80 #[.pointer (some ⟨g, 0, none⟩), .pointer (some ⟨g1, 0, none⟩)] w (SetsR g [x.val, y.val, 1, (x * y).val] w) :=
  eread_core g g1 r0 r1 r2 r3 _ _ _ w (Lib.hid fun w => Of_any 1 (by omega) w) (Lib.hid (fMul x y)) (Lib.hid h0) (Lib.hid h1) (Lib.hid n1)
/-- Four residues. -/
structure X4 where
  x : Fin PP
  y : Fin PP
  z : Fin PP
  t : Fin PP
def X4.l (p : X4) : List Nat := [p.x.val, p.y.val, p.z.val, p.t.val]
def X4.sum (p q : X4) : X4 :=
  let one := p.z * q.z
  let d := dF * (p.t * q.t)
  let x := p.x * q.y + p.y * q.x
  let y := p.y * q.y + p.x * q.x
  ⟨x * (one - d), y * (one + d), (one + d) * (one - d), x * y⟩
theorem eadd_any (p q : X4) (r0 r1 r2 r3 : Nat) (w : World) (g gp gq : Nat) (h0 : RAt w g [r0, r1, r2, r3]) (hp : RAt w gp p.l) (hq : RAt w gq q.l) :
    Calls Try.prog 81 #[.pointer (some ⟨g, 0, none⟩), .pointer (some ⟨gp, 0, none⟩), .pointer (some ⟨gq, 0, none⟩)] w (SetsR g (p.sum q).l w) :=
  eadd_core g gp gq r0 r1 r2 r3 p.x.val p.y.val p.z.val p.t.val q.x.val q.y.val q.z.val q.t.val (p.z * q.z).val dF.val (p.t * q.t).val (dF * (p.t * q.t)).val (p.x * q.y).val (p.y * q.x).val (p.x * q.y + p.y * q.x).val (p.y * q.y).val (p.x * q.x).val (p.y * q.y + p.x * q.x).val
    (p.z * q.z + dF * (p.t * q.t)).val (p.z * q.z - dF * (p.t * q.t)).val _ _ _ _ w (Lib.hid (fMul _ _)) (Lib.hid fD) (Lib.hid (fMul _ _)) (Lib.hid (fMul _ _)) (Lib.hid (fMul _ _)) (Lib.hid (fMul _ _)) (Lib.hid (fAdd _ _)) (Lib.hid (fMul _ _)) (Lib.hid (fMul _ _)) (Lib.hid (fAdd _ _)) (Lib.hid (fAdd _ _)) (Lib.hid (fSub _ _))
    (Lib.hid fun w g1 g2 g3 g4 h0 h1 h2 h3 h4 n1 n2 n3 n4 => divide_any _ _ _ _ r0 r1 r2 r3 w g g1 g2 g3 g4 h0 h1 h2 h3 h4 n1 n2 n3 n4) (Lib.hid h0) (Lib.hid hp) (Lib.hid hq)
theorem epoint_any (p : X4) (w : World) (g : Nat) (h : RAt w g p.l) : Calls Try.prog 82 #[.pointer (some ⟨g, 0, none⟩)] w (Gives (vR [(p.x * fInv p.z).val, (p.y * fInv p.z).val]) w) :=
  epoint_core g _ _ _ _ _ _ _ w (Lib.hid (fInvC p.z)) (Lib.hid (fMul _ _)) (Lib.hid (fMul _ _)) (Lib.hid h)
/-- It is the point (x, y). -/
def X4.Is (p : X4) (x y : Fin PP) : Prop := p.z ≠ 0 ∧ p.x = x * p.z ∧ p.y = y * p.z ∧ p.t = x * y * p.z
theorem X4.Is.point {p : X4} {x y : Fin PP} (h : p.Is x y) : p.x * fInv p.z = x ∧ p.y * fInv p.z = y := by
  obtain ⟨h0, h1, h2, _⟩ := h
  have hi := fInv_mul h0
  rw [h1, h2]
  generalize fInv p.z = v at *
  exact ⟨by grind, by grind⟩
theorem X4.Is.sum {p q : X4} {x1 y1 x2 y2 : Fin PP} (hp : p.Is x1 y1) (hq : q.Is x2 y2) (o1 : EC.On x1 y1) (o2 : EC.On x2 y2) : (p.sum q).Is (EC.sx x1 y1 x2 y2) (EC.sy x1 y1 x2 y2) := by
  obtain ⟨p0, p1, p2, p3⟩ := hp
  obtain ⟨q0, q1, q2, q3⟩ := hq
  have e1 := EC.sx_eq o1 o2
  have e2 := EC.sy_eq o1 o2
  have d1 := EC.den1 o1 o2
  have d2 := EC.den2 o1 o2
  have hz : p.z * q.z ≠ 0 := EC.mul_ne p0 q0
  have hd : EC.d = dF := rfl
  rw [hd] at e1 e2 d1 d2
  generalize EC.sx x1 y1 x2 y2 = X at *
  generalize EC.sy x1 y1 x2 y2 = Y at *
  have k1 : p.z * q.z + dF * (p.t * q.t) = p.z * q.z * (1 + dF * (x1 * y1 * (x2 * y2))) := by rw [p3, q3]; grind
  have k2 : p.z * q.z - dF * (p.t * q.t) = p.z * q.z * (1 - dF * (x1 * y1 * (x2 * y2))) := by rw [p3, q3]; grind
  have k3 : p.x * q.y + p.y * q.x = p.z * q.z * (x1 * y2 + y1 * x2) := by rw [p1, p2, q1, q2]; grind
  have k4 : p.y * q.y + p.x * q.x = p.z * q.z * (y1 * y2 + x1 * x2) := by rw [p1, p2, q1, q2]; grind
  unfold X4.Is X4.sum
  simp only
  rw [k1, k2, k3, k4, ← e1, ← e2]
  generalize 1 + dF * (x1 * y1 * (x2 * y2)) = B at *
  generalize 1 - dF * (x1 * y1 * (x2 * y2)) = D at *
  generalize p.z * q.z = z at *
  refine ⟨EC.mul_ne (EC.mul_ne hz d1) (EC.mul_ne hz d2), by grind, by grind, by grind⟩
end Go.Proofs.Ytgdimnbdnepbgaa
