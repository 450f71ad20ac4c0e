/- Several texts in one. No statement is proved here. -/
import Derived.Test.YtgdimnbdnepbgaaM3
import Derived.Test.YtgdimnbdnepbgaaM2
import Derived.Test.YtgdimnbdnepbgaaM5
/- Points in extended coordinates: double. No statement is proved here. -/
namespace Go.Proofs.Ytgdimnbdnepbgaa
open Go.RowKit
set_option linter.unusedVariables false
set_option maxRecDepth 40000
set_option linter.unusedSimpArgs false
def oED0 : Oper := { dst := some 11, op := Op.move (Operand.tmp 1), type := 80, pos := "extended.go:40", after := #[], guard := none }
def oED1 : Oper := { dst := some 12, op := Op.nilCheck (Operand.tmp 11), type := 0, pos := "extended.go:40", after := #[{ on := 0, ground := Ground.data }], guard := none }
def oED2 : Oper := { dst := some 13, op := Op.fieldAddr 76 (Operand.tmp 12) 0, type := 0, pos := "extended.go:40", after := #[{ on := 1, ground := Ground.data }], guard := none }
def oED3 : Oper := { dst := some 14, op := Op.load 23 (Operand.tmp 13), type := 23, pos := "extended.go:40", after := #[{ on := 2, ground := Ground.data }], guard := none }
def oED4 : Oper := { dst := some 15, op := Op.move (Operand.tmp 1), type := 80, pos := "extended.go:40", after := #[], guard := none }
def oED5 : Oper := { dst := some 16, op := Op.nilCheck (Operand.tmp 15), type := 0, pos := "extended.go:40", after := #[{ on := 4, ground := Ground.data }], guard := none }
def oED6 : Oper := { dst := some 17, op := Op.fieldAddr 76 (Operand.tmp 16) 0, type := 0, pos := "extended.go:40", after := #[{ on := 5, ground := Ground.data }], guard := none }
def oED7 : Oper := { dst := some 18, op := Op.load 23 (Operand.tmp 17), type := 23, pos := "extended.go:40", after := #[{ on := 6, ground := Ground.data }], guard := none }
def oED8 : Oper := { dst := some 20, op := Op.move (Operand.tmp 1), type := 80, pos := "extended.go:40", after := #[], guard := none }
def oED9 : Oper := { dst := some 21, op := Op.nilCheck (Operand.tmp 20), type := 0, pos := "extended.go:40", after := #[{ on := 9, ground := Ground.data }], guard := none }
def oED10 : Oper := { dst := some 22, op := Op.fieldAddr 76 (Operand.tmp 21) 1, type := 0, pos := "extended.go:40", after := #[{ on := 10, ground := Ground.data }], guard := none }
def oED11 : Oper := { dst := some 23, op := Op.load 23 (Operand.tmp 22), type := 23, pos := "extended.go:40", after := #[{ on := 11, ground := Ground.data }], guard := none }
def oED12 : Oper := { dst := some 24, op := Op.move (Operand.tmp 1), type := 80, pos := "extended.go:40", after := #[], guard := none }
def oED13 : Oper := { dst := some 25, op := Op.nilCheck (Operand.tmp 24), type := 0, pos := "extended.go:40", after := #[{ on := 13, ground := Ground.data }], guard := none }
def oED14 : Oper := { dst := some 26, op := Op.fieldAddr 76 (Operand.tmp 25) 1, type := 0, pos := "extended.go:40", after := #[{ on := 14, ground := Ground.data }], guard := none }
def oED15 : Oper := { dst := some 27, op := Op.load 23 (Operand.tmp 26), type := 23, pos := "extended.go:40", after := #[{ on := 15, ground := Ground.data }], guard := none }
def oED16 : Oper := { dst := some 19, op := Op.call { callee := Callee.value (Operand.func 25), args := #[Operand.tmp 14, Operand.tmp 18], argTypes := #[23, 23] }, type := 23, pos := "extended.go:40", after := #[{ on := 3, ground := Ground.data }, { on := 7, ground := Ground.data }], guard := none }
def oED17 : Oper := { dst := some 28, op := Op.call { callee := Callee.value (Operand.func 25), args := #[Operand.tmp 23, Operand.tmp 27], argTypes := #[23, 23] }, type := 23, pos := "extended.go:40", after := #[{ on := 12, ground := Ground.data }, { on := 16, ground := Ground.data }, { on := 8, ground := Ground.chain }], guard := none }
def oED18 : Oper := { dst := some 4, op := Op.alloc 23, type := 0, pos := "extended.go:40", after := #[], guard := none }
def oED19 : Oper := { dst := some 5, op := Op.alloc 23, type := 0, pos := "extended.go:40", after := #[], guard := none }
def oED20 : Oper := { dst := none, op := Op.store 23 (Operand.tmp 4) (Operand.tmp 19), type := 0, pos := "extended.go:40", after := #[{ on := 18, ground := Ground.data }, { on := 8, ground := Ground.data }, { on := 17, ground := Ground.chain }, { on := 0, ground := Ground.phase }, { on := 1, ground := Ground.phase }, { on := 2, ground := Ground.phase }, { on := 3, ground := Ground.phase }, { on := 4, ground := Ground.phase }, { on := 5, ground := Ground.phase }, { on := 6, ground := Ground.phase }, { on := 7, ground := Ground.phase }, { on := 8, ground := Ground.phase }, { on := 9, ground := Ground.textOnly Departure.lateStores }, { on := 10, ground := Ground.textOnly Departure.lateStores }, { on := 11, ground := Ground.textOnly Departure.lateStores }, { on := 12, ground := Ground.textOnly Departure.lateStores }, { on := 13, ground := Ground.textOnly Departure.lateStores }, { on := 14, ground := Ground.textOnly Departure.lateStores }, { on := 15, ground := Ground.textOnly Departure.lateStores }, { on := 16, ground := Ground.textOnly Departure.lateStores }, { on := 17, ground := Ground.textOnly Departure.lateStoresUnsure }, { on := 18, ground := Ground.phase }, { on := 19, ground := Ground.phase }], guard := none }
def oED21 : Oper := { dst := none, op := Op.store 23 (Operand.tmp 5) (Operand.tmp 28), type := 0, pos := "extended.go:40", after := #[{ on := 19, ground := Ground.data }, { on := 17, ground := Ground.data }, { on := 20, ground := Ground.chain }, { on := 0, ground := Ground.phase }, { on := 1, ground := Ground.phase }, { on := 2, ground := Ground.phase }, { on := 3, ground := Ground.phase }, { on := 4, ground := Ground.phase }, { on := 5, ground := Ground.phase }, { on := 6, ground := Ground.phase }, { on := 7, ground := Ground.phase }, { on := 8, ground := Ground.phase }, { on := 9, ground := Ground.phase }, { on := 10, ground := Ground.phase }, { on := 11, ground := Ground.phase }, { on := 12, ground := Ground.phase }, { on := 13, ground := Ground.phase }, { on := 14, ground := Ground.phase }, { on := 15, ground := Ground.phase }, { on := 16, ground := Ground.phase }, { on := 17, ground := Ground.phase }, { on := 18, ground := Ground.phase }, { on := 19, ground := Ground.phase }, { on := 20, ground := Ground.phase }], guard := none }
def oED22 : Oper := { dst := some 29, op := Op.move (Operand.tmp 1), type := 80, pos := "extended.go:41", after := #[], guard := none }
def oED23 : Oper := { dst := some 30, op := Op.nilCheck (Operand.tmp 29), type := 0, pos := "extended.go:41", after := #[{ on := 0, ground := Ground.data }], guard := none }
def oED24 : Oper := { dst := some 31, op := Op.fieldAddr 76 (Operand.tmp 30) 2, type := 0, pos := "extended.go:41", after := #[{ on := 1, ground := Ground.data }], guard := none }
def oED25 : Oper := { dst := some 32, op := Op.load 23 (Operand.tmp 31), type := 23, pos := "extended.go:41", after := #[{ on := 2, ground := Ground.data }], guard := none }
def oED26 : Oper := { dst := some 33, op := Op.move (Operand.tmp 1), type := 80, pos := "extended.go:41", after := #[], guard := none }
def oED27 : Oper := { dst := some 34, op := Op.nilCheck (Operand.tmp 33), type := 0, pos := "extended.go:41", after := #[{ on := 4, ground := Ground.data }], guard := none }
def oED28 : Oper := { dst := some 35, op := Op.fieldAddr 76 (Operand.tmp 34) 2, type := 0, pos := "extended.go:41", after := #[{ on := 5, ground := Ground.data }], guard := none }
def oED29 : Oper := { dst := some 36, op := Op.load 23 (Operand.tmp 35), type := 23, pos := "extended.go:41", after := #[{ on := 6, ground := Ground.data }], guard := none }
def oED30 : Oper := { dst := some 38, op := Op.move (Operand.tmp 1), type := 80, pos := "extended.go:41", after := #[], guard := none }
def oED31 : Oper := { dst := some 39, op := Op.nilCheck (Operand.tmp 38), type := 0, pos := "extended.go:41", after := #[{ on := 9, ground := Ground.data }], guard := none }
def oED32 : Oper := { dst := some 40, op := Op.fieldAddr 76 (Operand.tmp 39) 0, type := 0, pos := "extended.go:41", after := #[{ on := 10, ground := Ground.data }], guard := none }
def oED33 : Oper := { dst := some 41, op := Op.load 23 (Operand.tmp 40), type := 23, pos := "extended.go:41", after := #[{ on := 11, ground := Ground.data }], guard := none }
def oED34 : Oper := { dst := some 42, op := Op.move (Operand.tmp 1), type := 80, pos := "extended.go:41", after := #[], guard := none }
def oED35 : Oper := { dst := some 43, op := Op.nilCheck (Operand.tmp 42), type := 0, pos := "extended.go:41", after := #[{ on := 13, ground := Ground.data }], guard := none }
def oED36 : Oper := { dst := some 44, op := Op.fieldAddr 76 (Operand.tmp 43) 1, type := 0, pos := "extended.go:41", after := #[{ on := 14, ground := Ground.data }], guard := none }
def oED37 : Oper := { dst := some 45, op := Op.load 23 (Operand.tmp 44), type := 23, pos := "extended.go:41", after := #[{ on := 15, ground := Ground.data }], guard := none }
def oED38 : Oper := { dst := some 37, op := Op.call { callee := Callee.value (Operand.func 25), args := #[Operand.tmp 32, Operand.tmp 36], argTypes := #[23, 23] }, type := 23, pos := "extended.go:41", after := #[{ on := 3, ground := Ground.data }, { on := 7, ground := Ground.data }], guard := none }
def oED39 : Oper := { dst := some 46, op := Op.call { callee := Callee.value (Operand.func 25), args := #[Operand.tmp 41, Operand.tmp 45], argTypes := #[23, 23] }, type := 23, pos := "extended.go:41", after := #[{ on := 12, ground := Ground.data }, { on := 16, ground := Ground.data }, { on := 8, ground := Ground.chain }], guard := none }
def oED40 : Oper := { dst := some 6, op := Op.alloc 23, type := 0, pos := "extended.go:41", after := #[], guard := none }
def oED41 : Oper := { dst := some 7, op := Op.alloc 23, type := 0, pos := "extended.go:41", after := #[], guard := none }
def oED42 : Oper := { dst := none, op := Op.store 23 (Operand.tmp 6) (Operand.tmp 37), type := 0, pos := "extended.go:41", after := #[{ on := 18, ground := Ground.data }, { on := 8, ground := Ground.data }, { on := 17, ground := Ground.chain }, { on := 0, ground := Ground.phase }, { on := 1, ground := Ground.phase }, { on := 2, ground := Ground.phase }, { on := 3, ground := Ground.phase }, { on := 4, ground := Ground.phase }, { on := 5, ground := Ground.phase }, { on := 6, ground := Ground.phase }, { on := 7, ground := Ground.phase }, { on := 8, ground := Ground.phase }, { on := 9, ground := Ground.textOnly Departure.lateStores }, { on := 10, ground := Ground.textOnly Departure.lateStores }, { on := 11, ground := Ground.textOnly Departure.lateStores }, { on := 12, ground := Ground.textOnly Departure.lateStores }, { on := 13, ground := Ground.textOnly Departure.lateStores }, { on := 14, ground := Ground.textOnly Departure.lateStores }, { on := 15, ground := Ground.textOnly Departure.lateStores }, { on := 16, ground := Ground.textOnly Departure.lateStores }, { on := 17, ground := Ground.textOnly Departure.lateStoresUnsure }, { on := 18, ground := Ground.phase }, { on := 19, ground := Ground.phase }], guard := none }
def oED43 : Oper := { dst := none, op := Op.store 23 (Operand.tmp 7) (Operand.tmp 46), type := 0, pos := "extended.go:41", after := #[{ on := 19, ground := Ground.data }, { on := 17, ground := Ground.data }, { on := 20, ground := Ground.chain }, { on := 0, ground := Ground.phase }, { on := 1, ground := Ground.phase }, { on := 2, ground := Ground.phase }, { on := 3, ground := Ground.phase }, { on := 4, ground := Ground.phase }, { on := 5, ground := Ground.phase }, { on := 6, ground := Ground.phase }, { on := 7, ground := Ground.phase }, { on := 8, ground := Ground.phase }, { on := 9, ground := Ground.phase }, { on := 10, ground := Ground.phase }, { on := 11, ground := Ground.phase }, { on := 12, ground := Ground.phase }, { on := 13, ground := Ground.phase }, { on := 14, ground := Ground.phase }, { on := 15, ground := Ground.phase }, { on := 16, ground := Ground.phase }, { on := 17, ground := Ground.phase }, { on := 18, ground := Ground.phase }, { on := 19, ground := Ground.phase }, { on := 20, ground := Ground.phase }], guard := none }
def oED44 : Oper := { dst := some 56, op := Op.load 23 (Operand.tmp 6), type := 23, pos := "extended.go:45", after := #[], guard := none }
def oED45 : Oper := { dst := some 57, op := Op.load 23 (Operand.tmp 6), type := 23, pos := "extended.go:45", after := #[], guard := none }
def oED46 : Oper := { dst := some 59, op := Op.load 23 (Operand.tmp 9), type := 23, pos := "extended.go:45", after := #[], guard := none }
def oED47 : Oper := { dst := some 58, op := Op.call { callee := Callee.value (Operand.func 19), args := #[Operand.tmp 56, Operand.tmp 57], argTypes := #[23, 23] }, type := 23, pos := "extended.go:45", after := #[{ on := 0, ground := Ground.data }, { on := 1, ground := Ground.data }], guard := none }
def oED48 : Oper := { dst := some 60, op := Op.call { callee := Callee.value (Operand.func 21), args := #[Operand.tmp 58, Operand.tmp 59], argTypes := #[23, 23] }, type := 23, pos := "extended.go:45", after := #[{ on := 2, ground := Ground.data }, { on := 3, ground := Ground.data }, { on := 2, ground := Ground.chain }], guard := none }
def oED49 : Oper := { dst := some 10, op := Op.alloc 23, type := 0, pos := "extended.go:45", after := #[], guard := none }
def oED50 : Oper := { dst := none, op := Op.store 23 (Operand.tmp 10) (Operand.tmp 60), type := 0, pos := "extended.go:45", after := #[{ on := 5, ground := Ground.data }, { on := 4, ground := Ground.data }, { on := 4, ground := Ground.chain }, { on := 0, ground := Ground.phase }, { on := 1, ground := Ground.phase }, { on := 2, ground := Ground.phase }, { on := 3, ground := Ground.phase }, { on := 4, ground := Ground.phase }, { on := 5, ground := Ground.phase }], guard := none }

set_option maxHeartbeats 8000000 in
theorem edouble_core (g gp r0 r1 r2 r3 x1 y1 z1 t1 xx yy one xy x y ox two oy X Y Z T : Nat) (w : World)
    (C0 : Hid (∀ w, Calls Try.prog 25 #[vN x1, vN x1] w (Gives (vN xx) w)))
    (C1 : Hid (∀ w, Calls Try.prog 25 #[vN y1, vN y1] w (Gives (vN yy) w)))
    (C2 : Hid (∀ w, Calls Try.prog 25 #[vN z1, vN z1] w (Gives (vN one) w)))
    (C3 : Hid (∀ w, Calls Try.prog 25 #[vN x1, vN y1] w (Gives (vN xy) w)))
    (C4 : Hid (∀ w, Calls Try.prog 19 #[vN xy, vN xy] w (Gives (vN x) w)))
    (C5 : Hid (∀ w, Calls Try.prog 19 #[vN yy, vN xx] w (Gives (vN y) w)))
    (C6 : Hid (∀ w, Calls Try.prog 21 #[vN yy, vN xx] w (Gives (vN ox) w)))
    (C7 : Hid (∀ w, Calls Try.prog 19 #[vN one, vN one] w (Gives (vN two) w)))
    (C8 : Hid (∀ w, Calls Try.prog 21 #[vN two, vN ox] w (Gives (vN oy) w)))
    (HD : Hid (∀ (w : World) (g1 g2 g3 g4 : Nat), RAt w g [r0, r1, r2, r3] → RAt w g1 [x] → RAt w g2 [ox] → RAt w g3 [y] → RAt w g4 [oy] → g ≠ g1 → g ≠ g2 → g ≠ g3 → g ≠ g4 → Calls Try.prog 100 #[.pointer (some ⟨g, 0, none⟩), .pointer (some ⟨g1, 0, none⟩), .pointer (some ⟨g2, 0, none⟩), .pointer (some ⟨g3, 0, none⟩), .pointer (some ⟨g4, 0, none⟩)] w (SetsR g [X, Y, Z, T] w)))
    (RG_0 : Hid (RAt w g [r0, r1, r2, r3])) (RX_0 : Hid (RAt w gp [x1, y1, z1, t1])) :
    Calls Try.prog 102 #[.pointer (some ⟨g, 0, none⟩), .pointer (some ⟨gp, 0, none⟩)] w (SetsR g [X, Y, Z, T] w) := by
  have HF_0 : Hid (Keeps (· = g) w w) := Lib.hid (Keeps.refl _ _)
  go_enter Try.func102, Try.ntmps102
  go_wp2_with fail
  have HLT152_0 := lR RG_0
  have HLT152_1 := lR RX_0
  have HLO152 : Hid (w.heap.size ≤ w.heap.size) := Lib.hid HF_0.out.size
  refine region_split (fun a' W => ∃ a152_0 a152_1, RAt W g [r0, r1, r2, r3] ∧ RAt W gp [x1, y1, z1, t1] ∧ RAt W a152_0 [xx] ∧ RAt W a152_1 [yy] ∧ w.heap.size ≤ a152_0 ∧ w.heap.size ≤ a152_1 ∧ a152_1 ≠ a152_0 ∧ Keeps (· = g) w W ∧ a' = ⟨#[.pointer (some ⟨g, 0, none⟩), .pointer (some ⟨gp, 0, none⟩), undef, undef, .pointer (some ⟨a152_0, 0, none⟩), .pointer (some ⟨a152_1, 0, none⟩), undef, undef, undef, undef, undef, .pointer (some ⟨gp, 0, none⟩), .pointer (some ⟨gp, 0, none⟩), .pointer (some ⟨gp, 0, none⟩), vN x1, .pointer (some ⟨gp, 0, none⟩), .pointer (some ⟨gp, 0, none⟩), .pointer (some ⟨gp, 0, none⟩), vN x1, vN xx, .pointer (some ⟨gp, 0, none⟩), .pointer (some ⟨gp, 0, none⟩), .pointer (some ⟨gp, 32, none⟩), vN y1, .pointer (some ⟨gp, 0, none⟩), .pointer (some ⟨gp, 0, none⟩), .pointer (some ⟨gp, 32, none⟩), vN y1, vN yy, undef, undef, undef, undef, undef, undef, undef, undef, undef, undef, undef, undef, undef, undef, undef, undef, undef, undef, undef, undef, undef, undef, undef, undef, undef, undef, undef, undef, undef, undef, undef, undef, undef, undef], []⟩) ?_ ?_
  · refine startW (fun j => j == 20 || j == 21) (w.heap.size) (by kernel_rfl) ?_
    obtain ⟨D152, hD152⟩ : ∃ D, D = w.drew := ⟨_, rfl⟩
    rw [← hD152]
    have HL_152 := dLq hD152
    have RG_152 := dRq hD152 RG_0
    have RX_152 := dRq hD152 RX_0
    have HF_152 := dFq hD152 HF_0
    clear hD152 RG_0 RX_0 HF_0
    refine tA (i := 0) (oi := oED0) ?_
    refine ⟨.pointer (some ⟨gp, 0, none⟩), fun w' => exec_move (.tmp 1) rfl _ rfl, ?_⟩
    simp only [oED0, Act.put, zA, zB, zC]
    refine tA (i := 1) (oi := oED1) ?_
    refine ⟨.pointer (some ⟨gp, 0, none⟩), fun w' => exec_nil (.tmp 11) rfl _ rfl, ?_⟩
    simp only [oED1, Act.put, zA, zB, zC]
    refine tA (i := 2) (oi := oED2) ?_
    refine ⟨.pointer (some ⟨gp, 0, none⟩), fun w' => exec_field 76 (.tmp 12) 0 rfl _ 0 rfl (fld76_0 _), ?_⟩
    simp only [oED2, Act.put, zA, zB, zC]
    refine takeT (i := 3) (oi := oED3) (vN x1) rfl (by kernel_rfl) (by kernel_rfl) (by kernel_rfl) (by kernel_rfl) (by kernel_rfl) (fun _ _ _ h => nomatch h.1) (by rfl) (fun w' hk => exec_loadF (.tmp 13) rfl (gp) 0 0 rfl [x1, y1, z1, t1] x1 rfl (RX_152.out.below hk HLT152_1.out) rfl) ?_
    simp only [oED3, Act.put, zA, zB, zC]
    refine tA (i := 4) (oi := oED4) ?_
    refine ⟨.pointer (some ⟨gp, 0, none⟩), fun w' => exec_move (.tmp 1) rfl _ rfl, ?_⟩
    simp only [oED4, Act.put, zA, zB, zC]
    refine tA (i := 5) (oi := oED5) ?_
    refine ⟨.pointer (some ⟨gp, 0, none⟩), fun w' => exec_nil (.tmp 15) rfl _ rfl, ?_⟩
    simp only [oED5, Act.put, zA, zB, zC]
    refine tA (i := 6) (oi := oED6) ?_
    refine ⟨.pointer (some ⟨gp, 0, none⟩), fun w' => exec_field 76 (.tmp 16) 0 rfl _ 0 rfl (fld76_0 _), ?_⟩
    simp only [oED6, Act.put, zA, zB, zC]
    refine takeT (i := 7) (oi := oED7) (vN x1) rfl (by kernel_rfl) (by kernel_rfl) (by kernel_rfl) (by kernel_rfl) (by kernel_rfl) (fun _ _ _ h => nomatch h.1) (by rfl) (fun w' hk => exec_loadF (.tmp 17) rfl (gp) 0 0 rfl [x1, y1, z1, t1] x1 rfl (RX_152.out.below hk HLT152_1.out) rfl) ?_
    simp only [oED7, Act.put, zA, zB, zC]
    refine tA (i := 9) (oi := oED8) ?_
    refine ⟨.pointer (some ⟨gp, 0, none⟩), fun w' => exec_move (.tmp 1) rfl _ rfl, ?_⟩
    simp only [oED8, Act.put, zA, zB, zC]
    refine tA (i := 10) (oi := oED9) ?_
    refine ⟨.pointer (some ⟨gp, 0, none⟩), fun w' => exec_nil (.tmp 20) rfl _ rfl, ?_⟩
    simp only [oED9, Act.put, zA, zB, zC]
    refine tA (i := 11) (oi := oED10) ?_
    refine ⟨.pointer (some ⟨gp, 32, none⟩), fun w' => exec_field 76 (.tmp 21) 1 rfl _ 32 rfl (fld76_1 _), ?_⟩
    simp only [oED10, Act.put, zA, zB, zC]
    refine takeT (i := 12) (oi := oED11) (vN y1) rfl (by kernel_rfl) (by kernel_rfl) (by kernel_rfl) (by kernel_rfl) (by kernel_rfl) (fun _ _ _ h => nomatch h.1) (by rfl) (fun w' hk => exec_loadF (.tmp 22) rfl (gp) 1 32 rfl [x1, y1, z1, t1] y1 rfl (RX_152.out.below hk HLT152_1.out) rfl) ?_
    simp only [oED11, Act.put, zA, zB, zC]
    refine tA (i := 13) (oi := oED12) ?_
    refine ⟨.pointer (some ⟨gp, 0, none⟩), fun w' => exec_move (.tmp 1) rfl _ rfl, ?_⟩
    simp only [oED12, Act.put, zA, zB, zC]
    refine tA (i := 14) (oi := oED13) ?_
    refine ⟨.pointer (some ⟨gp, 0, none⟩), fun w' => exec_nil (.tmp 24) rfl _ rfl, ?_⟩
    simp only [oED13, Act.put, zA, zB, zC]
    refine tA (i := 15) (oi := oED14) ?_
    refine ⟨.pointer (some ⟨gp, 32, none⟩), fun w' => exec_field 76 (.tmp 25) 1 rfl _ 32 rfl (fld76_1 _), ?_⟩
    simp only [oED14, Act.put, zA, zB, zC]
    refine takeT (i := 16) (oi := oED15) (vN y1) rfl (by kernel_rfl) (by kernel_rfl) (by kernel_rfl) (by kernel_rfl) (by kernel_rfl) (fun _ _ _ h => nomatch h.1) (by rfl) (fun w' hk => exec_loadF (.tmp 26) rfl (gp) 1 32 rfl [x1, y1, z1, t1] y1 rfl (RX_152.out.below hk HLT152_1.out) rfl) ?_
    simp only [oED15, Act.put, zA, zB, zC]
    refine eachW [8, 18, 19] (by kernel_rfl) (by simp) ?_
    intro k hk
    simp only [zM, zN, or_false] at hk
    rcases hk with rfl | rfl | rfl
    · refine wpOp_call (i := 8) (oi := oED16) rfl (by rfl) (exec_callL 25 [.tmp 14, .tmp 18] #[23, 23] rfl [vN x1, vN x1] rfl (CG25 _)) ((C0.out D152).mono ?_)
      rintro e153 W153 ⟨rfl, hb153⟩
      refine ⟨_, rfl, fun _ => hb153.mono HL_152.out, ?_⟩
      have RG_153 := hKq RG_152 hb153
      have RX_153 := hKq RX_152 hb153
      have HF_153 := fCq HF_152 hb153
      have HL_153 := lT HL_152 hb153
      clear hb153 HL_152 RG_152 RX_152 HF_152
      simp only [oED16, Act.put, zA, zB, zC]
      refine eachW [17, 18, 19] (by kernel_rfl) (by simp) ?_
      intro k hk
      simp only [zM, zN, or_false] at hk
      rcases hk with rfl | rfl | rfl
      · refine wpOp_call (i := 17) (oi := oED17) rfl (by rfl) (exec_callL 25 [.tmp 23, .tmp 27] #[23, 23] rfl [vN y1, vN y1] rfl (CG25 _)) ((C1.out W153).mono ?_)
        rintro e154 W154 ⟨rfl, hb154⟩
        refine ⟨_, rfl, fun _ => hb154.mono HL_153.out, ?_⟩
        have RG_154 := hKq RG_153 hb154
        have RX_154 := hKq RX_153 hb154
        have HF_154 := fCq HF_153 hb154
        have HL_154 := lT HL_153 hb154
        clear hb154 HL_153 RG_153 RX_153 HF_153
        simp only [oED17, Act.put, zA, zB, zC]
        refine eachW [18, 19] (by kernel_rfl) (by simp) ?_
        intro k hk
        simp only [zM, zN, or_false] at hk
        rcases hk with rfl | rfl
        · refine wpOp_value (i := 18) (oi := oED18) rfl (by rfl) (exec_alloc 23 rfl (.agg (zbs 32)) zero23 W154) ⟨fun _ => (below_alloc W154 _).mono HL_154.out, ?_⟩
          obtain ⟨W155, hW155, hb155, hz155⟩ := alloc_zero W154
          rw [← hW155]
          obtain ⟨g155, hg155⟩ : ∃ g, g = W154.heap.size := ⟨_, rfl⟩
          rw [← hg155] at hz155 ⊢
          have HG155 := gE hg155 HL_154
          have HX155_0 := nXq RG_154 hg155
          have HX155_1 := nXq RX_154 hg155
          have RG_155 := hKq RG_154 hb155
          have RX_155 := hKq RX_154 hb155
          have HF_155 := fCq HF_154 hb155
          have HL_155 := lT HL_154 hb155
          have RZ155_155 := zrq hz155
          clear hb155 hz155 hg155 hW155 HL_154 RG_154 RX_154 HF_154
          simp only [oED18, Act.put, zA, zB, zC]
          refine opW _ _ (i := 19) (oi := oED19) rfl (by kernel_rfl) (by rfl) (exec_alloc 23 rfl (.agg (zbs 32)) zero23 W155) (fun _ => (below_alloc W155 _).mono HL_155.out) ?_
          obtain ⟨W156, hW156, hb156, hz156⟩ := alloc_zero W155
          rw [← hW156]
          obtain ⟨g156, hg156⟩ : ∃ g, g = W155.heap.size := ⟨_, rfl⟩
          rw [← hg156] at hz156 ⊢
          have HG156 := gE hg156 HL_155
          have HX156_2 := nXq RG_155 hg156
          have HX156_3 := nXq RX_155 hg156
          have HX156_4 := nXq RZ155_155 hg156
          have RG_156 := hKq RG_155 hb156
          have RX_156 := hKq RX_155 hb156
          have RZ155_156 := hKq RZ155_155 hb156
          have HF_156 := fCq HF_155 hb156
          have HL_156 := lT HL_155 hb156
          have RZ156_156 := zrq hz156
          clear hb156 hz156 hg156 hW156 HL_155 RG_155 RX_155 RZ155_155 HF_155
          simp only [oED19, Act.put, zA, zB, zC]
          refine storeW_F (i := 20) (oi := oED20) rfl (by kernel_rfl) (by rfl) (.tmp 4) (.tmp 19) rfl (g155) 0 0 rfl [0] xx rfl rfl RZ155_156.out (show 0 < 1 by omega) rfl ?_
          intro W157 hr157 hg157 hz157
          simp only [oED20, Act.put, zA, zB, zC]
          have RG_157 := hGq RG_156 hg157 HX155_0
          have RX_157 := hGq RX_156 hg157 HX155_1
          have RZ155_157 : Hid (RAt W157 g155 [xx]) := Lib.hid hr157
          have RZ156_157 := hGq RZ156_156 hg157 HX156_4
          have HF_157 := fNq HF_156 hg157 HG155 HLO152
          have HL_157 := lG HL_156 hg157
          clear hr157 hg157 hz157 HL_156 RG_156 RX_156 RZ155_156 RZ156_156 HF_156
          refine storeW_F (i := 21) (oi := oED21) rfl (by kernel_rfl) (by rfl) (.tmp 5) (.tmp 28) rfl (g156) 0 0 rfl [0] yy rfl rfl RZ156_157.out (show 0 < 1 by omega) rfl ?_
          intro W158 hr158 hg158 hz158
          simp only [oED21, Act.put, zA, zB, zC]
          have RG_158 := hGq RG_157 hg158 HX156_2
          have RX_158 := hGq RX_157 hg158 HX156_3
          have RZ155_158 := hGq RZ155_157 hg158 HX156_4
          have RZ156_158 : Hid (RAt W158 g156 [yy]) := Lib.hid hr158
          have HF_158 := fNq HF_157 hg158 HG156 HLO152
          have HL_158 := lG HL_157 hg158
          clear hr158 hg158 hz158 HL_157 RG_157 RX_157 RZ155_157 RZ156_157 HF_157
          refine doneW (by kernel_rfl) ⟨rfl, ?_⟩ _
          exact ⟨g155, g156, RG_158.out, RX_158.out, RZ155_158.out, RZ156_158.out, HG155.out, HG156.out, (by have := HX156_4.out; omega), HF_158.out, rfl⟩
        · refine wpOp_value (i := 19) (oi := oED19) rfl (by rfl) (exec_alloc 23 rfl (.agg (zbs 32)) zero23 W154) ⟨fun _ => (below_alloc W154 _).mono HL_154.out, ?_⟩
          obtain ⟨W159, hW159, hb159, hz159⟩ := alloc_zero W154
          rw [← hW159]
          obtain ⟨g159, hg159⟩ : ∃ g, g = W154.heap.size := ⟨_, rfl⟩
          rw [← hg159] at hz159 ⊢
          have HG159 := gE hg159 HL_154
          have HX159_0 := nXq RG_154 hg159
          have HX159_1 := nXq RX_154 hg159
          have RG_159 := hKq RG_154 hb159
          have RX_159 := hKq RX_154 hb159
          have HF_159 := fCq HF_154 hb159
          have HL_159 := lT HL_154 hb159
          have RZ159_159 := zrq hz159
          clear hb159 hz159 hg159 hW159 HL_154 RG_154 RX_154 HF_154
          simp only [oED19, Act.put, zA, zB, zC]
          refine opW _ _ (i := 18) (oi := oED18) rfl (by kernel_rfl) (by rfl) (exec_alloc 23 rfl (.agg (zbs 32)) zero23 W159) (fun _ => (below_alloc W159 _).mono HL_159.out) ?_
          obtain ⟨W160, hW160, hb160, hz160⟩ := alloc_zero W159
          rw [← hW160]
          obtain ⟨g160, hg160⟩ : ∃ g, g = W159.heap.size := ⟨_, rfl⟩
          rw [← hg160] at hz160 ⊢
          have HG160 := gE hg160 HL_159
          have HX160_2 := nXq RG_159 hg160
          have HX160_3 := nXq RX_159 hg160
          have HX160_4 := nXq RZ159_159 hg160
          have RG_160 := hKq RG_159 hb160
          have RX_160 := hKq RX_159 hb160
          have RZ159_160 := hKq RZ159_159 hb160
          have HF_160 := fCq HF_159 hb160
          have HL_160 := lT HL_159 hb160
          have RZ160_160 := zrq hz160
          clear hb160 hz160 hg160 hW160 HL_159 RG_159 RX_159 RZ159_159 HF_159
          simp only [oED18, Act.put, zA, zB, zC]
          refine storeW_F (i := 20) (oi := oED20) rfl (by kernel_rfl) (by rfl) (.tmp 4) (.tmp 19) rfl (g160) 0 0 rfl [0] xx rfl rfl RZ160_160.out (show 0 < 1 by omega) rfl ?_
          intro W161 hr161 hg161 hz161
          simp only [oED20, Act.put, zA, zB, zC]
          have RG_161 := hGq RG_160 hg161 HX160_2
          have RX_161 := hGq RX_160 hg161 HX160_3
          have RZ159_161 := hGq RZ159_160 hg161 HX160_4
          have RZ160_161 : Hid (RAt W161 g160 [xx]) := Lib.hid hr161
          have HF_161 := fNq HF_160 hg161 HG160 HLO152
          have HL_161 := lG HL_160 hg161
          clear hr161 hg161 hz161 HL_160 RG_160 RX_160 RZ159_160 RZ160_160 HF_160
          refine storeW_F (i := 21) (oi := oED21) rfl (by kernel_rfl) (by rfl) (.tmp 5) (.tmp 28) rfl (g159) 0 0 rfl [0] yy rfl rfl RZ159_161.out (show 0 < 1 by omega) rfl ?_
          intro W162 hr162 hg162 hz162
          simp only [oED21, Act.put, zA, zB, zC]
          have RG_162 := hGq RG_161 hg162 HX159_0
          have RX_162 := hGq RX_161 hg162 HX159_1
          have RZ159_162 : Hid (RAt W162 g159 [yy]) := Lib.hid hr162
          have RZ160_162 := hGq RZ160_161 hg162 HX160_4
          have HF_162 := fNq HF_161 hg162 HG159 HLO152
          have HL_162 := lG HL_161 hg162
          clear hr162 hg162 hz162 HL_161 RG_161 RX_161 RZ159_161 RZ160_161 HF_161
          refine doneW (by kernel_rfl) ⟨rfl, ?_⟩ _
          exact ⟨g160, g159, RG_162.out, RX_162.out, RZ160_162.out, RZ159_162.out, HG160.out, HG159.out, (by have := HX160_4.out; omega), HF_162.out, rfl⟩
      · refine wpOp_value (i := 18) (oi := oED18) rfl (by rfl) (exec_alloc 23 rfl (.agg (zbs 32)) zero23 W153) ⟨fun _ => (below_alloc W153 _).mono HL_153.out, ?_⟩
        obtain ⟨W163, hW163, hb163, hz163⟩ := alloc_zero W153
        rw [← hW163]
        obtain ⟨g163, hg163⟩ : ∃ g, g = W153.heap.size := ⟨_, rfl⟩
        rw [← hg163] at hz163 ⊢
        have HG163 := gE hg163 HL_153
        have HX163_0 := nXq RG_153 hg163
        have HX163_1 := nXq RX_153 hg163
        have RG_163 := hKq RG_153 hb163
        have RX_163 := hKq RX_153 hb163
        have HF_163 := fCq HF_153 hb163
        have HL_163 := lT HL_153 hb163
        have RZ163_163 := zrq hz163
        clear hb163 hz163 hg163 hW163 HL_153 RG_153 RX_153 HF_153
        simp only [oED18, Act.put, zA, zB, zC]
        refine eachW [17, 19] (by kernel_rfl) (by simp) ?_
        intro k hk
        simp only [zM, zN, or_false] at hk
        rcases hk with rfl | rfl
        · refine wpOp_call (i := 17) (oi := oED17) rfl (by rfl) (exec_callL 25 [.tmp 23, .tmp 27] #[23, 23] rfl [vN y1, vN y1] rfl (CG25 _)) ((C1.out W163).mono ?_)
          rintro e164 W164 ⟨rfl, hb164⟩
          refine ⟨_, rfl, fun _ => hb164.mono HL_163.out, ?_⟩
          have RG_164 := hKq RG_163 hb164
          have RX_164 := hKq RX_163 hb164
          have RZ163_164 := hKq RZ163_163 hb164
          have HF_164 := fCq HF_163 hb164
          have HL_164 := lT HL_163 hb164
          clear hb164 HL_163 RG_163 RX_163 RZ163_163 HF_163
          simp only [oED17, Act.put, zA, zB, zC]
          refine opW _ _ (i := 19) (oi := oED19) rfl (by kernel_rfl) (by rfl) (exec_alloc 23 rfl (.agg (zbs 32)) zero23 W164) (fun _ => (below_alloc W164 _).mono HL_164.out) ?_
          obtain ⟨W165, hW165, hb165, hz165⟩ := alloc_zero W164
          rw [← hW165]
          obtain ⟨g165, hg165⟩ : ∃ g, g = W164.heap.size := ⟨_, rfl⟩
          rw [← hg165] at hz165 ⊢
          have HG165 := gE hg165 HL_164
          have HX165_2 := nXq RG_164 hg165
          have HX165_3 := nXq RX_164 hg165
          have HX165_4 := nXq RZ163_164 hg165
          have RG_165 := hKq RG_164 hb165
          have RX_165 := hKq RX_164 hb165
          have RZ163_165 := hKq RZ163_164 hb165
          have HF_165 := fCq HF_164 hb165
          have HL_165 := lT HL_164 hb165
          have RZ165_165 := zrq hz165
          clear hb165 hz165 hg165 hW165 HL_164 RG_164 RX_164 RZ163_164 HF_164
          simp only [oED19, Act.put, zA, zB, zC]
          refine storeW_F (i := 20) (oi := oED20) rfl (by kernel_rfl) (by rfl) (.tmp 4) (.tmp 19) rfl (g163) 0 0 rfl [0] xx rfl rfl RZ163_165.out (show 0 < 1 by omega) rfl ?_
          intro W166 hr166 hg166 hz166
          simp only [oED20, Act.put, zA, zB, zC]
          have RG_166 := hGq RG_165 hg166 HX163_0
          have RX_166 := hGq RX_165 hg166 HX163_1
          have RZ163_166 : Hid (RAt W166 g163 [xx]) := Lib.hid hr166
          have RZ165_166 := hGq RZ165_165 hg166 HX165_4
          have HF_166 := fNq HF_165 hg166 HG163 HLO152
          have HL_166 := lG HL_165 hg166
          clear hr166 hg166 hz166 HL_165 RG_165 RX_165 RZ163_165 RZ165_165 HF_165
          refine storeW_F (i := 21) (oi := oED21) rfl (by kernel_rfl) (by rfl) (.tmp 5) (.tmp 28) rfl (g165) 0 0 rfl [0] yy rfl rfl RZ165_166.out (show 0 < 1 by omega) rfl ?_
          intro W167 hr167 hg167 hz167
          simp only [oED21, Act.put, zA, zB, zC]
          have RG_167 := hGq RG_166 hg167 HX165_2
          have RX_167 := hGq RX_166 hg167 HX165_3
          have RZ163_167 := hGq RZ163_166 hg167 HX165_4
          have RZ165_167 : Hid (RAt W167 g165 [yy]) := Lib.hid hr167
          have HF_167 := fNq HF_166 hg167 HG165 HLO152
          have HL_167 := lG HL_166 hg167
          clear hr167 hg167 hz167 HL_166 RG_166 RX_166 RZ163_166 RZ165_166 HF_166
          refine doneW (by kernel_rfl) ⟨rfl, ?_⟩ _
          exact ⟨g163, g165, RG_167.out, RX_167.out, RZ163_167.out, RZ165_167.out, HG163.out, HG165.out, (by have := HX165_4.out; omega), HF_167.out, rfl⟩
        · refine wpOp_value (i := 19) (oi := oED19) rfl (by rfl) (exec_alloc 23 rfl (.agg (zbs 32)) zero23 W163) ⟨fun _ => (below_alloc W163 _).mono HL_163.out, ?_⟩
          obtain ⟨W168, hW168, hb168, hz168⟩ := alloc_zero W163
          rw [← hW168]
          obtain ⟨g168, hg168⟩ : ∃ g, g = W163.heap.size := ⟨_, rfl⟩
          rw [← hg168] at hz168 ⊢
          have HG168 := gE hg168 HL_163
          have HX168_2 := nXq RG_163 hg168
          have HX168_3 := nXq RX_163 hg168
          have HX168_4 := nXq RZ163_163 hg168
          have RG_168 := hKq RG_163 hb168
          have RX_168 := hKq RX_163 hb168
          have RZ163_168 := hKq RZ163_163 hb168
          have HF_168 := fCq HF_163 hb168
          have HL_168 := lT HL_163 hb168
          have RZ168_168 := zrq hz168
          clear hb168 hz168 hg168 hW168 HL_163 RG_163 RX_163 RZ163_163 HF_163
          simp only [oED19, Act.put, zA, zB, zC]
          refine callW (i := 17) (oi := oED17) rfl (by kernel_rfl) (by rfl) (exec_callL 25 [.tmp 23, .tmp 27] #[23, 23] rfl [vN y1, vN y1] rfl (CG25 _)) ((C1.out W168).mono ?_)
          rintro e169 W169 ⟨rfl, hb169⟩
          refine ⟨_, rfl, fun _ => hb169.mono HL_168.out, ?_⟩
          have RG_169 := hKq RG_168 hb169
          have RX_169 := hKq RX_168 hb169
          have RZ163_169 := hKq RZ163_168 hb169
          have RZ168_169 := hKq RZ168_168 hb169
          have HF_169 := fCq HF_168 hb169
          have HL_169 := lT HL_168 hb169
          clear hb169 HL_168 RG_168 RX_168 RZ163_168 RZ168_168 HF_168
          simp only [oED17, Act.put, zA, zB, zC]
          refine storeW_F (i := 20) (oi := oED20) rfl (by kernel_rfl) (by rfl) (.tmp 4) (.tmp 19) rfl (g163) 0 0 rfl [0] xx rfl rfl RZ163_169.out (show 0 < 1 by omega) rfl ?_
          intro W170 hr170 hg170 hz170
          simp only [oED20, Act.put, zA, zB, zC]
          have RG_170 := hGq RG_169 hg170 HX163_0
          have RX_170 := hGq RX_169 hg170 HX163_1
          have RZ163_170 : Hid (RAt W170 g163 [xx]) := Lib.hid hr170
          have RZ168_170 := hGq RZ168_169 hg170 HX168_4
          have HF_170 := fNq HF_169 hg170 HG163 HLO152
          have HL_170 := lG HL_169 hg170
          clear hr170 hg170 hz170 HL_169 RG_169 RX_169 RZ163_169 RZ168_169 HF_169
          refine storeW_F (i := 21) (oi := oED21) rfl (by kernel_rfl) (by rfl) (.tmp 5) (.tmp 28) rfl (g168) 0 0 rfl [0] yy rfl rfl RZ168_170.out (show 0 < 1 by omega) rfl ?_
          intro W171 hr171 hg171 hz171
          simp only [oED21, Act.put, zA, zB, zC]
          have RG_171 := hGq RG_170 hg171 HX168_2
          have RX_171 := hGq RX_170 hg171 HX168_3
          have RZ163_171 := hGq RZ163_170 hg171 HX168_4
          have RZ168_171 : Hid (RAt W171 g168 [yy]) := Lib.hid hr171
          have HF_171 := fNq HF_170 hg171 HG168 HLO152
          have HL_171 := lG HL_170 hg171
          clear hr171 hg171 hz171 HL_170 RG_170 RX_170 RZ163_170 RZ168_170 HF_170
          refine doneW (by kernel_rfl) ⟨rfl, ?_⟩ _
          exact ⟨g163, g168, RG_171.out, RX_171.out, RZ163_171.out, RZ168_171.out, HG163.out, HG168.out, (by have := HX168_4.out; omega), HF_171.out, rfl⟩
      · refine wpOp_value (i := 19) (oi := oED19) rfl (by rfl) (exec_alloc 23 rfl (.agg (zbs 32)) zero23 W153) ⟨fun _ => (below_alloc W153 _).mono HL_153.out, ?_⟩
        obtain ⟨W172, hW172, hb172, hz172⟩ := alloc_zero W153
        rw [← hW172]
        obtain ⟨g172, hg172⟩ : ∃ g, g = W153.heap.size := ⟨_, rfl⟩
        rw [← hg172] at hz172 ⊢
        have HG172 := gE hg172 HL_153
        have HX172_0 := nXq RG_153 hg172
        have HX172_1 := nXq RX_153 hg172
        have RG_172 := hKq RG_153 hb172
        have RX_172 := hKq RX_153 hb172
        have HF_172 := fCq HF_153 hb172
        have HL_172 := lT HL_153 hb172
        have RZ172_172 := zrq hz172
        clear hb172 hz172 hg172 hW172 HL_153 RG_153 RX_153 HF_153
        simp only [oED19, Act.put, zA, zB, zC]
        refine eachW [17, 18] (by kernel_rfl) (by simp) ?_
        intro k hk
        simp only [zM, zN, or_false] at hk
        rcases hk with rfl | rfl
        · refine wpOp_call (i := 17) (oi := oED17) rfl (by rfl) (exec_callL 25 [.tmp 23, .tmp 27] #[23, 23] rfl [vN y1, vN y1] rfl (CG25 _)) ((C1.out W172).mono ?_)
          rintro e173 W173 ⟨rfl, hb173⟩
          refine ⟨_, rfl, fun _ => hb173.mono HL_172.out, ?_⟩
          have RG_173 := hKq RG_172 hb173
          have RX_173 := hKq RX_172 hb173
          have RZ172_173 := hKq RZ172_172 hb173
          have HF_173 := fCq HF_172 hb173
          have HL_173 := lT HL_172 hb173
          clear hb173 HL_172 RG_172 RX_172 RZ172_172 HF_172
          simp only [oED17, Act.put, zA, zB, zC]
          refine opW _ _ (i := 18) (oi := oED18) rfl (by kernel_rfl) (by rfl) (exec_alloc 23 rfl (.agg (zbs 32)) zero23 W173) (fun _ => (below_alloc W173 _).mono HL_173.out) ?_
          obtain ⟨W174, hW174, hb174, hz174⟩ := alloc_zero W173
          rw [← hW174]
          obtain ⟨g174, hg174⟩ : ∃ g, g = W173.heap.size := ⟨_, rfl⟩
          rw [← hg174] at hz174 ⊢
          have HG174 := gE hg174 HL_173
          have HX174_2 := nXq RG_173 hg174
          have HX174_3 := nXq RX_173 hg174
          have HX174_4 := nXq RZ172_173 hg174
          have RG_174 := hKq RG_173 hb174
          have RX_174 := hKq RX_173 hb174
          have RZ172_174 := hKq RZ172_173 hb174
          have HF_174 := fCq HF_173 hb174
          have HL_174 := lT HL_173 hb174
          have RZ174_174 := zrq hz174
          clear hb174 hz174 hg174 hW174 HL_173 RG_173 RX_173 RZ172_173 HF_173
          simp only [oED18, Act.put, zA, zB, zC]
          refine storeW_F (i := 20) (oi := oED20) rfl (by kernel_rfl) (by rfl) (.tmp 4) (.tmp 19) rfl (g174) 0 0 rfl [0] xx rfl rfl RZ174_174.out (show 0 < 1 by omega) rfl ?_
          intro W175 hr175 hg175 hz175
          simp only [oED20, Act.put, zA, zB, zC]
          have RG_175 := hGq RG_174 hg175 HX174_2
          have RX_175 := hGq RX_174 hg175 HX174_3
          have RZ172_175 := hGq RZ172_174 hg175 HX174_4
          have RZ174_175 : Hid (RAt W175 g174 [xx]) := Lib.hid hr175
          have HF_175 := fNq HF_174 hg175 HG174 HLO152
          have HL_175 := lG HL_174 hg175
          clear hr175 hg175 hz175 HL_174 RG_174 RX_174 RZ172_174 RZ174_174 HF_174
          refine storeW_F (i := 21) (oi := oED21) rfl (by kernel_rfl) (by rfl) (.tmp 5) (.tmp 28) rfl (g172) 0 0 rfl [0] yy rfl rfl RZ172_175.out (show 0 < 1 by omega) rfl ?_
          intro W176 hr176 hg176 hz176
          simp only [oED21, Act.put, zA, zB, zC]
          have RG_176 := hGq RG_175 hg176 HX172_0
          have RX_176 := hGq RX_175 hg176 HX172_1
          have RZ172_176 : Hid (RAt W176 g172 [yy]) := Lib.hid hr176
          have RZ174_176 := hGq RZ174_175 hg176 HX174_4
          have HF_176 := fNq HF_175 hg176 HG172 HLO152
          have HL_176 := lG HL_175 hg176
          clear hr176 hg176 hz176 HL_175 RG_175 RX_175 RZ172_175 RZ174_175 HF_175
          refine doneW (by kernel_rfl) ⟨rfl, ?_⟩ _
          exact ⟨g174, g172, RG_176.out, RX_176.out, RZ174_176.out, RZ172_176.out, HG174.out, HG172.out, (by have := HX174_4.out; omega), HF_176.out, rfl⟩
        · refine wpOp_value (i := 18) (oi := oED18) rfl (by rfl) (exec_alloc 23 rfl (.agg (zbs 32)) zero23 W172) ⟨fun _ => (below_alloc W172 _).mono HL_172.out, ?_⟩
          obtain ⟨W177, hW177, hb177, hz177⟩ := alloc_zero W172
          rw [← hW177]
          obtain ⟨g177, hg177⟩ : ∃ g, g = W172.heap.size := ⟨_, rfl⟩
          rw [← hg177] at hz177 ⊢
          have HG177 := gE hg177 HL_172
          have HX177_2 := nXq RG_172 hg177
          have HX177_3 := nXq RX_172 hg177
          have HX177_4 := nXq RZ172_172 hg177
          have RG_177 := hKq RG_172 hb177
          have RX_177 := hKq RX_172 hb177
          have RZ172_177 := hKq RZ172_172 hb177
          have HF_177 := fCq HF_172 hb177
          have HL_177 := lT HL_172 hb177
          have RZ177_177 := zrq hz177
          clear hb177 hz177 hg177 hW177 HL_172 RG_172 RX_172 RZ172_172 HF_172
          simp only [oED18, Act.put, zA, zB, zC]
          refine callW (i := 17) (oi := oED17) rfl (by kernel_rfl) (by rfl) (exec_callL 25 [.tmp 23, .tmp 27] #[23, 23] rfl [vN y1, vN y1] rfl (CG25 _)) ((C1.out W177).mono ?_)
          rintro e178 W178 ⟨rfl, hb178⟩
          refine ⟨_, rfl, fun _ => hb178.mono HL_177.out, ?_⟩
          have RG_178 := hKq RG_177 hb178
          have RX_178 := hKq RX_177 hb178
          have RZ172_178 := hKq RZ172_177 hb178
          have RZ177_178 := hKq RZ177_177 hb178
          have HF_178 := fCq HF_177 hb178
          have HL_178 := lT HL_177 hb178
          clear hb178 HL_177 RG_177 RX_177 RZ172_177 RZ177_177 HF_177
          simp only [oED17, Act.put, zA, zB, zC]
          refine storeW_F (i := 20) (oi := oED20) rfl (by kernel_rfl) (by rfl) (.tmp 4) (.tmp 19) rfl (g177) 0 0 rfl [0] xx rfl rfl RZ177_178.out (show 0 < 1 by omega) rfl ?_
          intro W179 hr179 hg179 hz179
          simp only [oED20, Act.put, zA, zB, zC]
          have RG_179 := hGq RG_178 hg179 HX177_2
          have RX_179 := hGq RX_178 hg179 HX177_3
          have RZ172_179 := hGq RZ172_178 hg179 HX177_4
          have RZ177_179 : Hid (RAt W179 g177 [xx]) := Lib.hid hr179
          have HF_179 := fNq HF_178 hg179 HG177 HLO152
          have HL_179 := lG HL_178 hg179
          clear hr179 hg179 hz179 HL_178 RG_178 RX_178 RZ172_178 RZ177_178 HF_178
          refine storeW_F (i := 21) (oi := oED21) rfl (by kernel_rfl) (by rfl) (.tmp 5) (.tmp 28) rfl (g172) 0 0 rfl [0] yy rfl rfl RZ172_179.out (show 0 < 1 by omega) rfl ?_
          intro W180 hr180 hg180 hz180
          simp only [oED21, Act.put, zA, zB, zC]
          have RG_180 := hGq RG_179 hg180 HX172_0
          have RX_180 := hGq RX_179 hg180 HX172_1
          have RZ172_180 : Hid (RAt W180 g172 [yy]) := Lib.hid hr180
          have RZ177_180 := hGq RZ177_179 hg180 HX177_4
          have HF_180 := fNq HF_179 hg180 HG172 HLO152
          have HL_180 := lG HL_179 hg180
          clear hr180 hg180 hz180 HL_179 RG_179 RX_179 RZ172_179 RZ177_179 HF_179
          refine doneW (by kernel_rfl) ⟨rfl, ?_⟩ _
          exact ⟨g177, g172, RG_180.out, RX_180.out, RZ177_180.out, RZ172_180.out, HG177.out, HG172.out, (by have := HX177_4.out; omega), HF_180.out, rfl⟩
    · refine wpOp_value (i := 18) (oi := oED18) rfl (by rfl) (exec_alloc 23 rfl (.agg (zbs 32)) zero23 D152) ⟨fun _ => (below_alloc D152 _).mono HL_152.out, ?_⟩
      obtain ⟨W181, hW181, hb181, hz181⟩ := alloc_zero D152
      rw [← hW181]
      obtain ⟨g181, hg181⟩ : ∃ g, g = D152.heap.size := ⟨_, rfl⟩
      rw [← hg181] at hz181 ⊢
      have HG181 := gE hg181 HL_152
      have HX181_0 := nXq RG_152 hg181
      have HX181_1 := nXq RX_152 hg181
      have RG_181 := hKq RG_152 hb181
      have RX_181 := hKq RX_152 hb181
      have HF_181 := fCq HF_152 hb181
      have HL_181 := lT HL_152 hb181
      have RZ181_181 := zrq hz181
      clear hb181 hz181 hg181 hW181 HL_152 RG_152 RX_152 HF_152
      simp only [oED18, Act.put, zA, zB, zC]
      refine eachW [8, 19] (by kernel_rfl) (by simp) ?_
      intro k hk
      simp only [zM, zN, or_false] at hk
      rcases hk with rfl | rfl
      · refine wpOp_call (i := 8) (oi := oED16) rfl (by rfl) (exec_callL 25 [.tmp 14, .tmp 18] #[23, 23] rfl [vN x1, vN x1] rfl (CG25 _)) ((C0.out W181).mono ?_)
        rintro e182 W182 ⟨rfl, hb182⟩
        refine ⟨_, rfl, fun _ => hb182.mono HL_181.out, ?_⟩
        have RG_182 := hKq RG_181 hb182
        have RX_182 := hKq RX_181 hb182
        have RZ181_182 := hKq RZ181_181 hb182
        have HF_182 := fCq HF_181 hb182
        have HL_182 := lT HL_181 hb182
        clear hb182 HL_181 RG_181 RX_181 RZ181_181 HF_181
        simp only [oED16, Act.put, zA, zB, zC]
        refine eachW [17, 19] (by kernel_rfl) (by simp) ?_
        intro k hk
        simp only [zM, zN, or_false] at hk
        rcases hk with rfl | rfl
        · refine wpOp_call (i := 17) (oi := oED17) rfl (by rfl) (exec_callL 25 [.tmp 23, .tmp 27] #[23, 23] rfl [vN y1, vN y1] rfl (CG25 _)) ((C1.out W182).mono ?_)
          rintro e183 W183 ⟨rfl, hb183⟩
          refine ⟨_, rfl, fun _ => hb183.mono HL_182.out, ?_⟩
          have RG_183 := hKq RG_182 hb183
          have RX_183 := hKq RX_182 hb183
          have RZ181_183 := hKq RZ181_182 hb183
          have HF_183 := fCq HF_182 hb183
          have HL_183 := lT HL_182 hb183
          clear hb183 HL_182 RG_182 RX_182 RZ181_182 HF_182
          simp only [oED17, Act.put, zA, zB, zC]
          refine opW _ _ (i := 19) (oi := oED19) rfl (by kernel_rfl) (by rfl) (exec_alloc 23 rfl (.agg (zbs 32)) zero23 W183) (fun _ => (below_alloc W183 _).mono HL_183.out) ?_
          obtain ⟨W184, hW184, hb184, hz184⟩ := alloc_zero W183
          rw [← hW184]
          obtain ⟨g184, hg184⟩ : ∃ g, g = W183.heap.size := ⟨_, rfl⟩
          rw [← hg184] at hz184 ⊢
          have HG184 := gE hg184 HL_183
          have HX184_2 := nXq RG_183 hg184
          have HX184_3 := nXq RX_183 hg184
          have HX184_4 := nXq RZ181_183 hg184
          have RG_184 := hKq RG_183 hb184
          have RX_184 := hKq RX_183 hb184
          have RZ181_184 := hKq RZ181_183 hb184
          have HF_184 := fCq HF_183 hb184
          have HL_184 := lT HL_183 hb184
          have RZ184_184 := zrq hz184
          clear hb184 hz184 hg184 hW184 HL_183 RG_183 RX_183 RZ181_183 HF_183
          simp only [oED19, Act.put, zA, zB, zC]
          refine storeW_F (i := 20) (oi := oED20) rfl (by kernel_rfl) (by rfl) (.tmp 4) (.tmp 19) rfl (g181) 0 0 rfl [0] xx rfl rfl RZ181_184.out (show 0 < 1 by omega) rfl ?_
          intro W185 hr185 hg185 hz185
          simp only [oED20, Act.put, zA, zB, zC]
          have RG_185 := hGq RG_184 hg185 HX181_0
          have RX_185 := hGq RX_184 hg185 HX181_1
          have RZ181_185 : Hid (RAt W185 g181 [xx]) := Lib.hid hr185
          have RZ184_185 := hGq RZ184_184 hg185 HX184_4
          have HF_185 := fNq HF_184 hg185 HG181 HLO152
          have HL_185 := lG HL_184 hg185
          clear hr185 hg185 hz185 HL_184 RG_184 RX_184 RZ181_184 RZ184_184 HF_184
          refine storeW_F (i := 21) (oi := oED21) rfl (by kernel_rfl) (by rfl) (.tmp 5) (.tmp 28) rfl (g184) 0 0 rfl [0] yy rfl rfl RZ184_185.out (show 0 < 1 by omega) rfl ?_
          intro W186 hr186 hg186 hz186
          simp only [oED21, Act.put, zA, zB, zC]
          have RG_186 := hGq RG_185 hg186 HX184_2
          have RX_186 := hGq RX_185 hg186 HX184_3
          have RZ181_186 := hGq RZ181_185 hg186 HX184_4
          have RZ184_186 : Hid (RAt W186 g184 [yy]) := Lib.hid hr186
          have HF_186 := fNq HF_185 hg186 HG184 HLO152
          have HL_186 := lG HL_185 hg186
          clear hr186 hg186 hz186 HL_185 RG_185 RX_185 RZ181_185 RZ184_185 HF_185
          refine doneW (by kernel_rfl) ⟨rfl, ?_⟩ _
          exact ⟨g181, g184, RG_186.out, RX_186.out, RZ181_186.out, RZ184_186.out, HG181.out, HG184.out, (by have := HX184_4.out; omega), HF_186.out, rfl⟩
        · refine wpOp_value (i := 19) (oi := oED19) rfl (by rfl) (exec_alloc 23 rfl (.agg (zbs 32)) zero23 W182) ⟨fun _ => (below_alloc W182 _).mono HL_182.out, ?_⟩
          obtain ⟨W187, hW187, hb187, hz187⟩ := alloc_zero W182
          rw [← hW187]
          obtain ⟨g187, hg187⟩ : ∃ g, g = W182.heap.size := ⟨_, rfl⟩
          rw [← hg187] at hz187 ⊢
          have HG187 := gE hg187 HL_182
          have HX187_2 := nXq RG_182 hg187
          have HX187_3 := nXq RX_182 hg187
          have HX187_4 := nXq RZ181_182 hg187
          have RG_187 := hKq RG_182 hb187
          have RX_187 := hKq RX_182 hb187
          have RZ181_187 := hKq RZ181_182 hb187
          have HF_187 := fCq HF_182 hb187
          have HL_187 := lT HL_182 hb187
          have RZ187_187 := zrq hz187
          clear hb187 hz187 hg187 hW187 HL_182 RG_182 RX_182 RZ181_182 HF_182
          simp only [oED19, Act.put, zA, zB, zC]
          refine callW (i := 17) (oi := oED17) rfl (by kernel_rfl) (by rfl) (exec_callL 25 [.tmp 23, .tmp 27] #[23, 23] rfl [vN y1, vN y1] rfl (CG25 _)) ((C1.out W187).mono ?_)
          rintro e188 W188 ⟨rfl, hb188⟩
          refine ⟨_, rfl, fun _ => hb188.mono HL_187.out, ?_⟩
          have RG_188 := hKq RG_187 hb188
          have RX_188 := hKq RX_187 hb188
          have RZ181_188 := hKq RZ181_187 hb188
          have RZ187_188 := hKq RZ187_187 hb188
          have HF_188 := fCq HF_187 hb188
          have HL_188 := lT HL_187 hb188
          clear hb188 HL_187 RG_187 RX_187 RZ181_187 RZ187_187 HF_187
          simp only [oED17, Act.put, zA, zB, zC]
          refine storeW_F (i := 20) (oi := oED20) rfl (by kernel_rfl) (by rfl) (.tmp 4) (.tmp 19) rfl (g181) 0 0 rfl [0] xx rfl rfl RZ181_188.out (show 0 < 1 by omega) rfl ?_
          intro W189 hr189 hg189 hz189
          simp only [oED20, Act.put, zA, zB, zC]
          have RG_189 := hGq RG_188 hg189 HX181_0
          have RX_189 := hGq RX_188 hg189 HX181_1
          have RZ181_189 : Hid (RAt W189 g181 [xx]) := Lib.hid hr189
          have RZ187_189 := hGq RZ187_188 hg189 HX187_4
          have HF_189 := fNq HF_188 hg189 HG181 HLO152
          have HL_189 := lG HL_188 hg189
          clear hr189 hg189 hz189 HL_188 RG_188 RX_188 RZ181_188 RZ187_188 HF_188
          refine storeW_F (i := 21) (oi := oED21) rfl (by kernel_rfl) (by rfl) (.tmp 5) (.tmp 28) rfl (g187) 0 0 rfl [0] yy rfl rfl RZ187_189.out (show 0 < 1 by omega) rfl ?_
          intro W190 hr190 hg190 hz190
          simp only [oED21, Act.put, zA, zB, zC]
          have RG_190 := hGq RG_189 hg190 HX187_2
          have RX_190 := hGq RX_189 hg190 HX187_3
          have RZ181_190 := hGq RZ181_189 hg190 HX187_4
          have RZ187_190 : Hid (RAt W190 g187 [yy]) := Lib.hid hr190
          have HF_190 := fNq HF_189 hg190 HG187 HLO152
          have HL_190 := lG HL_189 hg190
          clear hr190 hg190 hz190 HL_189 RG_189 RX_189 RZ181_189 RZ187_189 HF_189
          refine doneW (by kernel_rfl) ⟨rfl, ?_⟩ _
          exact ⟨g181, g187, RG_190.out, RX_190.out, RZ181_190.out, RZ187_190.out, HG181.out, HG187.out, (by have := HX187_4.out; omega), HF_190.out, rfl⟩
      · refine wpOp_value (i := 19) (oi := oED19) rfl (by rfl) (exec_alloc 23 rfl (.agg (zbs 32)) zero23 W181) ⟨fun _ => (below_alloc W181 _).mono HL_181.out, ?_⟩
        obtain ⟨W191, hW191, hb191, hz191⟩ := alloc_zero W181
        rw [← hW191]
        obtain ⟨g191, hg191⟩ : ∃ g, g = W181.heap.size := ⟨_, rfl⟩
        rw [← hg191] at hz191 ⊢
        have HG191 := gE hg191 HL_181
        have HX191_2 := nXq RG_181 hg191
        have HX191_3 := nXq RX_181 hg191
        have HX191_4 := nXq RZ181_181 hg191
        have RG_191 := hKq RG_181 hb191
        have RX_191 := hKq RX_181 hb191
        have RZ181_191 := hKq RZ181_181 hb191
        have HF_191 := fCq HF_181 hb191
        have HL_191 := lT HL_181 hb191
        have RZ191_191 := zrq hz191
        clear hb191 hz191 hg191 hW191 HL_181 RG_181 RX_181 RZ181_181 HF_181
        simp only [oED19, Act.put, zA, zB, zC]
        refine callW (i := 8) (oi := oED16) rfl (by kernel_rfl) (by rfl) (exec_callL 25 [.tmp 14, .tmp 18] #[23, 23] rfl [vN x1, vN x1] rfl (CG25 _)) ((C0.out W191).mono ?_)
        rintro e192 W192 ⟨rfl, hb192⟩
        refine ⟨_, rfl, fun _ => hb192.mono HL_191.out, ?_⟩
        have RG_192 := hKq RG_191 hb192
        have RX_192 := hKq RX_191 hb192
        have RZ181_192 := hKq RZ181_191 hb192
        have RZ191_192 := hKq RZ191_191 hb192
        have HF_192 := fCq HF_191 hb192
        have HL_192 := lT HL_191 hb192
        clear hb192 HL_191 RG_191 RX_191 RZ181_191 RZ191_191 HF_191
        simp only [oED16, Act.put, zA, zB, zC]
        refine callW (i := 17) (oi := oED17) rfl (by kernel_rfl) (by rfl) (exec_callL 25 [.tmp 23, .tmp 27] #[23, 23] rfl [vN y1, vN y1] rfl (CG25 _)) ((C1.out W192).mono ?_)
        rintro e193 W193 ⟨rfl, hb193⟩
        refine ⟨_, rfl, fun _ => hb193.mono HL_192.out, ?_⟩
        have RG_193 := hKq RG_192 hb193
        have RX_193 := hKq RX_192 hb193
        have RZ181_193 := hKq RZ181_192 hb193
        have RZ191_193 := hKq RZ191_192 hb193
        have HF_193 := fCq HF_192 hb193
        have HL_193 := lT HL_192 hb193
        clear hb193 HL_192 RG_192 RX_192 RZ181_192 RZ191_192 HF_192
        simp only [oED17, Act.put, zA, zB, zC]
        refine storeW_F (i := 20) (oi := oED20) rfl (by kernel_rfl) (by rfl) (.tmp 4) (.tmp 19) rfl (g181) 0 0 rfl [0] xx rfl rfl RZ181_193.out (show 0 < 1 by omega) rfl ?_
        intro W194 hr194 hg194 hz194
        simp only [oED20, Act.put, zA, zB, zC]
        have RG_194 := hGq RG_193 hg194 HX181_0
        have RX_194 := hGq RX_193 hg194 HX181_1
        have RZ181_194 : Hid (RAt W194 g181 [xx]) := Lib.hid hr194
        have RZ191_194 := hGq RZ191_193 hg194 HX191_4
        have HF_194 := fNq HF_193 hg194 HG181 HLO152
        have HL_194 := lG HL_193 hg194
        clear hr194 hg194 hz194 HL_193 RG_193 RX_193 RZ181_193 RZ191_193 HF_193
        refine storeW_F (i := 21) (oi := oED21) rfl (by kernel_rfl) (by rfl) (.tmp 5) (.tmp 28) rfl (g191) 0 0 rfl [0] yy rfl rfl RZ191_194.out (show 0 < 1 by omega) rfl ?_
        intro W195 hr195 hg195 hz195
        simp only [oED21, Act.put, zA, zB, zC]
        have RG_195 := hGq RG_194 hg195 HX191_2
        have RX_195 := hGq RX_194 hg195 HX191_3
        have RZ181_195 := hGq RZ181_194 hg195 HX191_4
        have RZ191_195 : Hid (RAt W195 g191 [yy]) := Lib.hid hr195
        have HF_195 := fNq HF_194 hg195 HG191 HLO152
        have HL_195 := lG HL_194 hg195
        clear hr195 hg195 hz195 HL_194 RG_194 RX_194 RZ181_194 RZ191_194 HF_194
        refine doneW (by kernel_rfl) ⟨rfl, ?_⟩ _
        exact ⟨g181, g191, RG_195.out, RX_195.out, RZ181_195.out, RZ191_195.out, HG181.out, HG191.out, (by have := HX191_4.out; omega), HF_195.out, rfl⟩
    · refine wpOp_value (i := 19) (oi := oED19) rfl (by rfl) (exec_alloc 23 rfl (.agg (zbs 32)) zero23 D152) ⟨fun _ => (below_alloc D152 _).mono HL_152.out, ?_⟩
      obtain ⟨W196, hW196, hb196, hz196⟩ := alloc_zero D152
      rw [← hW196]
      obtain ⟨g196, hg196⟩ : ∃ g, g = D152.heap.size := ⟨_, rfl⟩
      rw [← hg196] at hz196 ⊢
      have HG196 := gE hg196 HL_152
      have HX196_0 := nXq RG_152 hg196
      have HX196_1 := nXq RX_152 hg196
      have RG_196 := hKq RG_152 hb196
      have RX_196 := hKq RX_152 hb196
      have HF_196 := fCq HF_152 hb196
      have HL_196 := lT HL_152 hb196
      have RZ196_196 := zrq hz196
      clear hb196 hz196 hg196 hW196 HL_152 RG_152 RX_152 HF_152
      simp only [oED19, Act.put, zA, zB, zC]
      refine eachW [8, 18] (by kernel_rfl) (by simp) ?_
      intro k hk
      simp only [zM, zN, or_false] at hk
      rcases hk with rfl | rfl
      · refine wpOp_call (i := 8) (oi := oED16) rfl (by rfl) (exec_callL 25 [.tmp 14, .tmp 18] #[23, 23] rfl [vN x1, vN x1] rfl (CG25 _)) ((C0.out W196).mono ?_)
        rintro e197 W197 ⟨rfl, hb197⟩
        refine ⟨_, rfl, fun _ => hb197.mono HL_196.out, ?_⟩
        have RG_197 := hKq RG_196 hb197
        have RX_197 := hKq RX_196 hb197
        have RZ196_197 := hKq RZ196_196 hb197
        have HF_197 := fCq HF_196 hb197
        have HL_197 := lT HL_196 hb197
        clear hb197 HL_196 RG_196 RX_196 RZ196_196 HF_196
        simp only [oED16, Act.put, zA, zB, zC]
        refine eachW [17, 18] (by kernel_rfl) (by simp) ?_
        intro k hk
        simp only [zM, zN, or_false] at hk
        rcases hk with rfl | rfl
        · refine wpOp_call (i := 17) (oi := oED17) rfl (by rfl) (exec_callL 25 [.tmp 23, .tmp 27] #[23, 23] rfl [vN y1, vN y1] rfl (CG25 _)) ((C1.out W197).mono ?_)
          rintro e198 W198 ⟨rfl, hb198⟩
          refine ⟨_, rfl, fun _ => hb198.mono HL_197.out, ?_⟩
          have RG_198 := hKq RG_197 hb198
          have RX_198 := hKq RX_197 hb198
          have RZ196_198 := hKq RZ196_197 hb198
          have HF_198 := fCq HF_197 hb198
          have HL_198 := lT HL_197 hb198
          clear hb198 HL_197 RG_197 RX_197 RZ196_197 HF_197
          simp only [oED17, Act.put, zA, zB, zC]
          refine opW _ _ (i := 18) (oi := oED18) rfl (by kernel_rfl) (by rfl) (exec_alloc 23 rfl (.agg (zbs 32)) zero23 W198) (fun _ => (below_alloc W198 _).mono HL_198.out) ?_
          obtain ⟨W199, hW199, hb199, hz199⟩ := alloc_zero W198
          rw [← hW199]
          obtain ⟨g199, hg199⟩ : ∃ g, g = W198.heap.size := ⟨_, rfl⟩
          rw [← hg199] at hz199 ⊢
          have HG199 := gE hg199 HL_198
          have HX199_2 := nXq RG_198 hg199
          have HX199_3 := nXq RX_198 hg199
          have HX199_4 := nXq RZ196_198 hg199
          have RG_199 := hKq RG_198 hb199
          have RX_199 := hKq RX_198 hb199
          have RZ196_199 := hKq RZ196_198 hb199
          have HF_199 := fCq HF_198 hb199
          have HL_199 := lT HL_198 hb199
          have RZ199_199 := zrq hz199
          clear hb199 hz199 hg199 hW199 HL_198 RG_198 RX_198 RZ196_198 HF_198
          simp only [oED18, Act.put, zA, zB, zC]
          refine storeW_F (i := 20) (oi := oED20) rfl (by kernel_rfl) (by rfl) (.tmp 4) (.tmp 19) rfl (g199) 0 0 rfl [0] xx rfl rfl RZ199_199.out (show 0 < 1 by omega) rfl ?_
          intro W200 hr200 hg200 hz200
          simp only [oED20, Act.put, zA, zB, zC]
          have RG_200 := hGq RG_199 hg200 HX199_2
          have RX_200 := hGq RX_199 hg200 HX199_3
          have RZ196_200 := hGq RZ196_199 hg200 HX199_4
          have RZ199_200 : Hid (RAt W200 g199 [xx]) := Lib.hid hr200
          have HF_200 := fNq HF_199 hg200 HG199 HLO152
          have HL_200 := lG HL_199 hg200
          clear hr200 hg200 hz200 HL_199 RG_199 RX_199 RZ196_199 RZ199_199 HF_199
          refine storeW_F (i := 21) (oi := oED21) rfl (by kernel_rfl) (by rfl) (.tmp 5) (.tmp 28) rfl (g196) 0 0 rfl [0] yy rfl rfl RZ196_200.out (show 0 < 1 by omega) rfl ?_
          intro W201 hr201 hg201 hz201
          simp only [oED21, Act.put, zA, zB, zC]
          have RG_201 := hGq RG_200 hg201 HX196_0
          have RX_201 := hGq RX_200 hg201 HX196_1
          have RZ196_201 : Hid (RAt W201 g196 [yy]) := Lib.hid hr201
          have RZ199_201 := hGq RZ199_200 hg201 HX199_4
          have HF_201 := fNq HF_200 hg201 HG196 HLO152
          have HL_201 := lG HL_200 hg201
          clear hr201 hg201 hz201 HL_200 RG_200 RX_200 RZ196_200 RZ199_200 HF_200
          refine doneW (by kernel_rfl) ⟨rfl, ?_⟩ _
          exact ⟨g199, g196, RG_201.out, RX_201.out, RZ199_201.out, RZ196_201.out, HG199.out, HG196.out, (by have := HX199_4.out; omega), HF_201.out, rfl⟩
        · refine wpOp_value (i := 18) (oi := oED18) rfl (by rfl) (exec_alloc 23 rfl (.agg (zbs 32)) zero23 W197) ⟨fun _ => (below_alloc W197 _).mono HL_197.out, ?_⟩
          obtain ⟨W202, hW202, hb202, hz202⟩ := alloc_zero W197
          rw [← hW202]
          obtain ⟨g202, hg202⟩ : ∃ g, g = W197.heap.size := ⟨_, rfl⟩
          rw [← hg202] at hz202 ⊢
          have HG202 := gE hg202 HL_197
          have HX202_2 := nXq RG_197 hg202
          have HX202_3 := nXq RX_197 hg202
          have HX202_4 := nXq RZ196_197 hg202
          have RG_202 := hKq RG_197 hb202
          have RX_202 := hKq RX_197 hb202
          have RZ196_202 := hKq RZ196_197 hb202
          have HF_202 := fCq HF_197 hb202
          have HL_202 := lT HL_197 hb202
          have RZ202_202 := zrq hz202
          clear hb202 hz202 hg202 hW202 HL_197 RG_197 RX_197 RZ196_197 HF_197
          simp only [oED18, Act.put, zA, zB, zC]
          refine callW (i := 17) (oi := oED17) rfl (by kernel_rfl) (by rfl) (exec_callL 25 [.tmp 23, .tmp 27] #[23, 23] rfl [vN y1, vN y1] rfl (CG25 _)) ((C1.out W202).mono ?_)
          rintro e203 W203 ⟨rfl, hb203⟩
          refine ⟨_, rfl, fun _ => hb203.mono HL_202.out, ?_⟩
          have RG_203 := hKq RG_202 hb203
          have RX_203 := hKq RX_202 hb203
          have RZ196_203 := hKq RZ196_202 hb203
          have RZ202_203 := hKq RZ202_202 hb203
          have HF_203 := fCq HF_202 hb203
          have HL_203 := lT HL_202 hb203
          clear hb203 HL_202 RG_202 RX_202 RZ196_202 RZ202_202 HF_202
          simp only [oED17, Act.put, zA, zB, zC]
          refine storeW_F (i := 20) (oi := oED20) rfl (by kernel_rfl) (by rfl) (.tmp 4) (.tmp 19) rfl (g202) 0 0 rfl [0] xx rfl rfl RZ202_203.out (show 0 < 1 by omega) rfl ?_
          intro W204 hr204 hg204 hz204
          simp only [oED20, Act.put, zA, zB, zC]
          have RG_204 := hGq RG_203 hg204 HX202_2
          have RX_204 := hGq RX_203 hg204 HX202_3
          have RZ196_204 := hGq RZ196_203 hg204 HX202_4
          have RZ202_204 : Hid (RAt W204 g202 [xx]) := Lib.hid hr204
          have HF_204 := fNq HF_203 hg204 HG202 HLO152
          have HL_204 := lG HL_203 hg204
          clear hr204 hg204 hz204 HL_203 RG_203 RX_203 RZ196_203 RZ202_203 HF_203
          refine storeW_F (i := 21) (oi := oED21) rfl (by kernel_rfl) (by rfl) (.tmp 5) (.tmp 28) rfl (g196) 0 0 rfl [0] yy rfl rfl RZ196_204.out (show 0 < 1 by omega) rfl ?_
          intro W205 hr205 hg205 hz205
          simp only [oED21, Act.put, zA, zB, zC]
          have RG_205 := hGq RG_204 hg205 HX196_0
          have RX_205 := hGq RX_204 hg205 HX196_1
          have RZ196_205 : Hid (RAt W205 g196 [yy]) := Lib.hid hr205
          have RZ202_205 := hGq RZ202_204 hg205 HX202_4
          have HF_205 := fNq HF_204 hg205 HG196 HLO152
          have HL_205 := lG HL_204 hg205
          clear hr205 hg205 hz205 HL_204 RG_204 RX_204 RZ196_204 RZ202_204 HF_204
          refine doneW (by kernel_rfl) ⟨rfl, ?_⟩ _
          exact ⟨g202, g196, RG_205.out, RX_205.out, RZ202_205.out, RZ196_205.out, HG202.out, HG196.out, (by have := HX202_4.out; omega), HF_205.out, rfl⟩
      · refine wpOp_value (i := 18) (oi := oED18) rfl (by rfl) (exec_alloc 23 rfl (.agg (zbs 32)) zero23 W196) ⟨fun _ => (below_alloc W196 _).mono HL_196.out, ?_⟩
        obtain ⟨W206, hW206, hb206, hz206⟩ := alloc_zero W196
        rw [← hW206]
        obtain ⟨g206, hg206⟩ : ∃ g, g = W196.heap.size := ⟨_, rfl⟩
        rw [← hg206] at hz206 ⊢
        have HG206 := gE hg206 HL_196
        have HX206_2 := nXq RG_196 hg206
        have HX206_3 := nXq RX_196 hg206
        have HX206_4 := nXq RZ196_196 hg206
        have RG_206 := hKq RG_196 hb206
        have RX_206 := hKq RX_196 hb206
        have RZ196_206 := hKq RZ196_196 hb206
        have HF_206 := fCq HF_196 hb206
        have HL_206 := lT HL_196 hb206
        have RZ206_206 := zrq hz206
        clear hb206 hz206 hg206 hW206 HL_196 RG_196 RX_196 RZ196_196 HF_196
        simp only [oED18, Act.put, zA, zB, zC]
        refine callW (i := 8) (oi := oED16) rfl (by kernel_rfl) (by rfl) (exec_callL 25 [.tmp 14, .tmp 18] #[23, 23] rfl [vN x1, vN x1] rfl (CG25 _)) ((C0.out W206).mono ?_)
        rintro e207 W207 ⟨rfl, hb207⟩
        refine ⟨_, rfl, fun _ => hb207.mono HL_206.out, ?_⟩
        have RG_207 := hKq RG_206 hb207
        have RX_207 := hKq RX_206 hb207
        have RZ196_207 := hKq RZ196_206 hb207
        have RZ206_207 := hKq RZ206_206 hb207
        have HF_207 := fCq HF_206 hb207
        have HL_207 := lT HL_206 hb207
        clear hb207 HL_206 RG_206 RX_206 RZ196_206 RZ206_206 HF_206
        simp only [oED16, Act.put, zA, zB, zC]
        refine callW (i := 17) (oi := oED17) rfl (by kernel_rfl) (by rfl) (exec_callL 25 [.tmp 23, .tmp 27] #[23, 23] rfl [vN y1, vN y1] rfl (CG25 _)) ((C1.out W207).mono ?_)
        rintro e208 W208 ⟨rfl, hb208⟩
        refine ⟨_, rfl, fun _ => hb208.mono HL_207.out, ?_⟩
        have RG_208 := hKq RG_207 hb208
        have RX_208 := hKq RX_207 hb208
        have RZ196_208 := hKq RZ196_207 hb208
        have RZ206_208 := hKq RZ206_207 hb208
        have HF_208 := fCq HF_207 hb208
        have HL_208 := lT HL_207 hb208
        clear hb208 HL_207 RG_207 RX_207 RZ196_207 RZ206_207 HF_207
        simp only [oED17, Act.put, zA, zB, zC]
        refine storeW_F (i := 20) (oi := oED20) rfl (by kernel_rfl) (by rfl) (.tmp 4) (.tmp 19) rfl (g206) 0 0 rfl [0] xx rfl rfl RZ206_208.out (show 0 < 1 by omega) rfl ?_
        intro W209 hr209 hg209 hz209
        simp only [oED20, Act.put, zA, zB, zC]
        have RG_209 := hGq RG_208 hg209 HX206_2
        have RX_209 := hGq RX_208 hg209 HX206_3
        have RZ196_209 := hGq RZ196_208 hg209 HX206_4
        have RZ206_209 : Hid (RAt W209 g206 [xx]) := Lib.hid hr209
        have HF_209 := fNq HF_208 hg209 HG206 HLO152
        have HL_209 := lG HL_208 hg209
        clear hr209 hg209 hz209 HL_208 RG_208 RX_208 RZ196_208 RZ206_208 HF_208
        refine storeW_F (i := 21) (oi := oED21) rfl (by kernel_rfl) (by rfl) (.tmp 5) (.tmp 28) rfl (g196) 0 0 rfl [0] yy rfl rfl RZ196_209.out (show 0 < 1 by omega) rfl ?_
        intro W210 hr210 hg210 hz210
        simp only [oED21, Act.put, zA, zB, zC]
        have RG_210 := hGq RG_209 hg210 HX196_0
        have RX_210 := hGq RX_209 hg210 HX196_1
        have RZ196_210 : Hid (RAt W210 g196 [yy]) := Lib.hid hr210
        have RZ206_210 := hGq RZ206_209 hg210 HX206_4
        have HF_210 := fNq HF_209 hg210 HG196 HLO152
        have HL_210 := lG HL_209 hg210
        clear hr210 hg210 hz210 HL_209 RG_209 RX_209 RZ196_209 RZ206_209 HF_209
        refine doneW (by kernel_rfl) ⟨rfl, ?_⟩ _
        exact ⟨g206, g196, RG_210.out, RX_210.out, RZ206_210.out, RZ196_210.out, HG206.out, HG196.out, (by have := HX206_4.out; omega), HF_210.out, rfl⟩
  rintro a' v211 ⟨a152_0, a152_1, h0, h1, h2, h3, k0, k1, q0, hF, rfl⟩
  have RG_211 := Lib.hid h0
  have RX_211 := Lib.hid h1
  have Na152_0_211 := Lib.hid h2
  have Na152_1_211 := Lib.hid h3
  have HNE211_0 : Hid (g ≠ a152_0) := Lib.hid (by have := HLT152_0.out; omega)
  have HNE211_1 : Hid (gp ≠ a152_0) := Lib.hid (by have := HLT152_1.out; omega)
  have HGE211_0 : Hid (w.heap.size ≤ a152_0) := Lib.hid (by have := HLO152.out; omega)
  have HNE211_2 : Hid (g ≠ a152_1) := Lib.hid (by have := HLT152_0.out; omega)
  have HNE211_3 : Hid (gp ≠ a152_1) := Lib.hid (by have := HLT152_1.out; omega)
  have HGE211_1 : Hid (w.heap.size ≤ a152_1) := Lib.hid (by have := HLO152.out; omega)
  have HNE211_4 := Lib.hid q0
  have HF_211 := Lib.hid hF
  clear h0 h1 h2 h3 k0 k1 q0 hF HLT152_0 HLT152_1 HLO152 RG_0 RX_0 HF_0
  go_wp2_with fail
  have HLT212_0 := lR RG_211
  have HLT212_1 := lR RX_211
  have HLT212_2 := lR Na152_0_211
  have HLT212_3 := lR Na152_1_211
  have HLO212 : Hid (w.heap.size ≤ v211.heap.size) := Lib.hid HF_211.out.size
  refine region_split (fun a' W => ∃ a212_0 a212_1, RAt W g [r0, r1, r2, r3] ∧ RAt W gp [x1, y1, z1, t1] ∧ RAt W a152_0 [xx] ∧ RAt W a152_1 [yy] ∧ RAt W a212_0 [one] ∧ RAt W a212_1 [xy] ∧ v211.heap.size ≤ a212_0 ∧ v211.heap.size ≤ a212_1 ∧ a212_1 ≠ a212_0 ∧ Keeps (· = g) w W ∧ a' = ⟨#[.pointer (some ⟨g, 0, none⟩), .pointer (some ⟨gp, 0, none⟩), undef, undef, .pointer (some ⟨a152_0, 0, none⟩), .pointer (some ⟨a152_1, 0, none⟩), .pointer (some ⟨a212_0, 0, none⟩), .pointer (some ⟨a212_1, 0, none⟩), undef, undef, undef, .pointer (some ⟨gp, 0, none⟩), .pointer (some ⟨gp, 0, none⟩), .pointer (some ⟨gp, 0, none⟩), vN x1, .pointer (some ⟨gp, 0, none⟩), .pointer (some ⟨gp, 0, none⟩), .pointer (some ⟨gp, 0, none⟩), vN x1, vN xx, .pointer (some ⟨gp, 0, none⟩), .pointer (some ⟨gp, 0, none⟩), .pointer (some ⟨gp, 32, none⟩), vN y1, .pointer (some ⟨gp, 0, none⟩), .pointer (some ⟨gp, 0, none⟩), .pointer (some ⟨gp, 32, none⟩), vN y1, vN yy, .pointer (some ⟨gp, 0, none⟩), .pointer (some ⟨gp, 0, none⟩), .pointer (some ⟨gp, 64, none⟩), vN z1, .pointer (some ⟨gp, 0, none⟩), .pointer (some ⟨gp, 0, none⟩), .pointer (some ⟨gp, 64, none⟩), vN z1, vN one, .pointer (some ⟨gp, 0, none⟩), .pointer (some ⟨gp, 0, none⟩), .pointer (some ⟨gp, 0, none⟩), vN x1, .pointer (some ⟨gp, 0, none⟩), .pointer (some ⟨gp, 0, none⟩), .pointer (some ⟨gp, 32, none⟩), vN y1, vN xy, undef, undef, undef, undef, undef, undef, undef, undef, undef, undef, undef, undef, undef, undef, undef, undef], []⟩) ?_ ?_
  · refine startW (fun j => j == 20 || j == 21) (v211.heap.size) (by kernel_rfl) ?_
    obtain ⟨D212, hD212⟩ : ∃ D, D = v211.drew := ⟨_, rfl⟩
    rw [← hD212]
    have HL_212 := dLq hD212
    have RG_212 := dRq hD212 RG_211
    have RX_212 := dRq hD212 RX_211
    have Na152_0_212 := dRq hD212 Na152_0_211
    have Na152_1_212 := dRq hD212 Na152_1_211
    have HF_212 := dFq hD212 HF_211
    clear hD212 RG_211 RX_211 Na152_0_211 Na152_1_211 HF_211
    refine tA (i := 0) (oi := oED22) ?_
    refine ⟨.pointer (some ⟨gp, 0, none⟩), fun w' => exec_move (.tmp 1) rfl _ rfl, ?_⟩
    simp only [oED22, Act.put, zA, zB, zC]
    refine tA (i := 1) (oi := oED23) ?_
    refine ⟨.pointer (some ⟨gp, 0, none⟩), fun w' => exec_nil (.tmp 29) rfl _ rfl, ?_⟩
    simp only [oED23, Act.put, zA, zB, zC]
    refine tA (i := 2) (oi := oED24) ?_
    refine ⟨.pointer (some ⟨gp, 64, none⟩), fun w' => exec_field 76 (.tmp 30) 2 rfl _ 64 rfl (fld76_2 _), ?_⟩
    simp only [oED24, Act.put, zA, zB, zC]
    refine takeT (i := 3) (oi := oED25) (vN z1) rfl (by kernel_rfl) (by kernel_rfl) (by kernel_rfl) (by kernel_rfl) (by kernel_rfl) (fun _ _ _ h => nomatch h.1) (by rfl) (fun w' hk => exec_loadF (.tmp 31) rfl (gp) 2 64 rfl [x1, y1, z1, t1] z1 rfl (RX_212.out.below hk HLT212_1.out) rfl) ?_
    simp only [oED25, Act.put, zA, zB, zC]
    refine tA (i := 4) (oi := oED26) ?_
    refine ⟨.pointer (some ⟨gp, 0, none⟩), fun w' => exec_move (.tmp 1) rfl _ rfl, ?_⟩
    simp only [oED26, Act.put, zA, zB, zC]
    refine tA (i := 5) (oi := oED27) ?_
    refine ⟨.pointer (some ⟨gp, 0, none⟩), fun w' => exec_nil (.tmp 33) rfl _ rfl, ?_⟩
    simp only [oED27, Act.put, zA, zB, zC]
    refine tA (i := 6) (oi := oED28) ?_
    refine ⟨.pointer (some ⟨gp, 64, none⟩), fun w' => exec_field 76 (.tmp 34) 2 rfl _ 64 rfl (fld76_2 _), ?_⟩
    simp only [oED28, Act.put, zA, zB, zC]
    refine takeT (i := 7) (oi := oED29) (vN z1) rfl (by kernel_rfl) (by kernel_rfl) (by kernel_rfl) (by kernel_rfl) (by kernel_rfl) (fun _ _ _ h => nomatch h.1) (by rfl) (fun w' hk => exec_loadF (.tmp 35) rfl (gp) 2 64 rfl [x1, y1, z1, t1] z1 rfl (RX_212.out.below hk HLT212_1.out) rfl) ?_
    simp only [oED29, Act.put, zA, zB, zC]
    refine tA (i := 9) (oi := oED30) ?_
    refine ⟨.pointer (some ⟨gp, 0, none⟩), fun w' => exec_move (.tmp 1) rfl _ rfl, ?_⟩
    simp only [oED30, Act.put, zA, zB, zC]
    refine tA (i := 10) (oi := oED31) ?_
    refine ⟨.pointer (some ⟨gp, 0, none⟩), fun w' => exec_nil (.tmp 38) rfl _ rfl, ?_⟩
    simp only [oED31, Act.put, zA, zB, zC]
    refine tA (i := 11) (oi := oED32) ?_
    refine ⟨.pointer (some ⟨gp, 0, none⟩), fun w' => exec_field 76 (.tmp 39) 0 rfl _ 0 rfl (fld76_0 _), ?_⟩
    simp only [oED32, Act.put, zA, zB, zC]
    refine takeT (i := 12) (oi := oED33) (vN x1) rfl (by kernel_rfl) (by kernel_rfl) (by kernel_rfl) (by kernel_rfl) (by kernel_rfl) (fun _ _ _ h => nomatch h.1) (by rfl) (fun w' hk => exec_loadF (.tmp 40) rfl (gp) 0 0 rfl [x1, y1, z1, t1] x1 rfl (RX_212.out.below hk HLT212_1.out) rfl) ?_
    simp only [oED33, Act.put, zA, zB, zC]
    refine tA (i := 13) (oi := oED34) ?_
    refine ⟨.pointer (some ⟨gp, 0, none⟩), fun w' => exec_move (.tmp 1) rfl _ rfl, ?_⟩
    simp only [oED34, Act.put, zA, zB, zC]
    refine tA (i := 14) (oi := oED35) ?_
    refine ⟨.pointer (some ⟨gp, 0, none⟩), fun w' => exec_nil (.tmp 42) rfl _ rfl, ?_⟩
    simp only [oED35, Act.put, zA, zB, zC]
    refine tA (i := 15) (oi := oED36) ?_
    refine ⟨.pointer (some ⟨gp, 32, none⟩), fun w' => exec_field 76 (.tmp 43) 1 rfl _ 32 rfl (fld76_1 _), ?_⟩
    simp only [oED36, Act.put, zA, zB, zC]
    refine takeT (i := 16) (oi := oED37) (vN y1) rfl (by kernel_rfl) (by kernel_rfl) (by kernel_rfl) (by kernel_rfl) (by kernel_rfl) (fun _ _ _ h => nomatch h.1) (by rfl) (fun w' hk => exec_loadF (.tmp 44) rfl (gp) 1 32 rfl [x1, y1, z1, t1] y1 rfl (RX_212.out.below hk HLT212_1.out) rfl) ?_
    simp only [oED37, Act.put, zA, zB, zC]
    refine eachW [8, 18, 19] (by kernel_rfl) (by simp) ?_
    intro k hk
    simp only [zM, zN, or_false] at hk
    rcases hk with rfl | rfl | rfl
    · refine wpOp_call (i := 8) (oi := oED38) rfl (by rfl) (exec_callL 25 [.tmp 32, .tmp 36] #[23, 23] rfl [vN z1, vN z1] rfl (CG25 _)) ((C2.out D212).mono ?_)
      rintro e213 W213 ⟨rfl, hb213⟩
      refine ⟨_, rfl, fun _ => hb213.mono HL_212.out, ?_⟩
      have RG_213 := hKq RG_212 hb213
      have RX_213 := hKq RX_212 hb213
      have Na152_0_213 := hKq Na152_0_212 hb213
      have Na152_1_213 := hKq Na152_1_212 hb213
      have HF_213 := fCq HF_212 hb213
      have HL_213 := lT HL_212 hb213
      clear hb213 HL_212 RG_212 RX_212 Na152_0_212 Na152_1_212 HF_212
      simp only [oED38, Act.put, zA, zB, zC]
      refine eachW [17, 18, 19] (by kernel_rfl) (by simp) ?_
      intro k hk
      simp only [zM, zN, or_false] at hk
      rcases hk with rfl | rfl | rfl
      · refine wpOp_call (i := 17) (oi := oED39) rfl (by rfl) (exec_callL 25 [.tmp 41, .tmp 45] #[23, 23] rfl [vN x1, vN y1] rfl (CG25 _)) ((C3.out W213).mono ?_)
        rintro e214 W214 ⟨rfl, hb214⟩
        refine ⟨_, rfl, fun _ => hb214.mono HL_213.out, ?_⟩
        have RG_214 := hKq RG_213 hb214
        have RX_214 := hKq RX_213 hb214
        have Na152_0_214 := hKq Na152_0_213 hb214
        have Na152_1_214 := hKq Na152_1_213 hb214
        have HF_214 := fCq HF_213 hb214
        have HL_214 := lT HL_213 hb214
        clear hb214 HL_213 RG_213 RX_213 Na152_0_213 Na152_1_213 HF_213
        simp only [oED39, Act.put, zA, zB, zC]
        refine eachW [18, 19] (by kernel_rfl) (by simp) ?_
        intro k hk
        simp only [zM, zN, or_false] at hk
        rcases hk with rfl | rfl
        · refine wpOp_value (i := 18) (oi := oED40) rfl (by rfl) (exec_alloc 23 rfl (.agg (zbs 32)) zero23 W214) ⟨fun _ => (below_alloc W214 _).mono HL_214.out, ?_⟩
          obtain ⟨W215, hW215, hb215, hz215⟩ := alloc_zero W214
          rw [← hW215]
          obtain ⟨g215, hg215⟩ : ∃ g, g = W214.heap.size := ⟨_, rfl⟩
          rw [← hg215] at hz215 ⊢
          have HG215 := gE hg215 HL_214
          have HX215_5 := nXq RG_214 hg215
          have HX215_6 := nXq RX_214 hg215
          have HX215_7 := nXq Na152_0_214 hg215
          have HX215_8 := nXq Na152_1_214 hg215
          have RG_215 := hKq RG_214 hb215
          have RX_215 := hKq RX_214 hb215
          have Na152_0_215 := hKq Na152_0_214 hb215
          have Na152_1_215 := hKq Na152_1_214 hb215
          have HF_215 := fCq HF_214 hb215
          have HL_215 := lT HL_214 hb215
          have RZ215_215 := zrq hz215
          clear hb215 hz215 hg215 hW215 HL_214 RG_214 RX_214 Na152_0_214 Na152_1_214 HF_214
          simp only [oED40, Act.put, zA, zB, zC]
          refine opW _ _ (i := 19) (oi := oED41) rfl (by kernel_rfl) (by rfl) (exec_alloc 23 rfl (.agg (zbs 32)) zero23 W215) (fun _ => (below_alloc W215 _).mono HL_215.out) ?_
          obtain ⟨W216, hW216, hb216, hz216⟩ := alloc_zero W215
          rw [← hW216]
          obtain ⟨g216, hg216⟩ : ∃ g, g = W215.heap.size := ⟨_, rfl⟩
          rw [← hg216] at hz216 ⊢
          have HG216 := gE hg216 HL_215
          have HX216_9 := nXq RG_215 hg216
          have HX216_10 := nXq RX_215 hg216
          have HX216_11 := nXq Na152_0_215 hg216
          have HX216_12 := nXq Na152_1_215 hg216
          have HX216_13 := nXq RZ215_215 hg216
          have RG_216 := hKq RG_215 hb216
          have RX_216 := hKq RX_215 hb216
          have Na152_0_216 := hKq Na152_0_215 hb216
          have Na152_1_216 := hKq Na152_1_215 hb216
          have RZ215_216 := hKq RZ215_215 hb216
          have HF_216 := fCq HF_215 hb216
          have HL_216 := lT HL_215 hb216
          have RZ216_216 := zrq hz216
          clear hb216 hz216 hg216 hW216 HL_215 RG_215 RX_215 Na152_0_215 Na152_1_215 RZ215_215 HF_215
          simp only [oED41, Act.put, zA, zB, zC]
          refine storeW_F (i := 20) (oi := oED42) rfl (by kernel_rfl) (by rfl) (.tmp 6) (.tmp 37) rfl (g215) 0 0 rfl [0] one rfl rfl RZ215_216.out (show 0 < 1 by omega) rfl ?_
          intro W217 hr217 hg217 hz217
          simp only [oED42, Act.put, zA, zB, zC]
          have RG_217 := hGq RG_216 hg217 HX215_5
          have RX_217 := hGq RX_216 hg217 HX215_6
          have Na152_0_217 := hGq Na152_0_216 hg217 HX215_7
          have Na152_1_217 := hGq Na152_1_216 hg217 HX215_8
          have RZ215_217 : Hid (RAt W217 g215 [one]) := Lib.hid hr217
          have RZ216_217 := hGq RZ216_216 hg217 HX216_13
          have HF_217 := fNq HF_216 hg217 HG215 HLO212
          have HL_217 := lG HL_216 hg217
          clear hr217 hg217 hz217 HL_216 RG_216 RX_216 Na152_0_216 Na152_1_216 RZ215_216 RZ216_216 HF_216
          refine storeW_F (i := 21) (oi := oED43) rfl (by kernel_rfl) (by rfl) (.tmp 7) (.tmp 46) rfl (g216) 0 0 rfl [0] xy rfl rfl RZ216_217.out (show 0 < 1 by omega) rfl ?_
          intro W218 hr218 hg218 hz218
          simp only [oED43, Act.put, zA, zB, zC]
          have RG_218 := hGq RG_217 hg218 HX216_9
          have RX_218 := hGq RX_217 hg218 HX216_10
          have Na152_0_218 := hGq Na152_0_217 hg218 HX216_11
          have Na152_1_218 := hGq Na152_1_217 hg218 HX216_12
          have RZ215_218 := hGq RZ215_217 hg218 HX216_13
          have RZ216_218 : Hid (RAt W218 g216 [xy]) := Lib.hid hr218
          have HF_218 := fNq HF_217 hg218 HG216 HLO212
          have HL_218 := lG HL_217 hg218
          clear hr218 hg218 hz218 HL_217 RG_217 RX_217 Na152_0_217 Na152_1_217 RZ215_217 RZ216_217 HF_217
          refine doneW (by kernel_rfl) ⟨rfl, ?_⟩ _
          exact ⟨g215, g216, RG_218.out, RX_218.out, Na152_0_218.out, Na152_1_218.out, RZ215_218.out, RZ216_218.out, HG215.out, HG216.out, (by have := HX216_13.out; omega), HF_218.out, rfl⟩
        · refine wpOp_value (i := 19) (oi := oED41) rfl (by rfl) (exec_alloc 23 rfl (.agg (zbs 32)) zero23 W214) ⟨fun _ => (below_alloc W214 _).mono HL_214.out, ?_⟩
          obtain ⟨W219, hW219, hb219, hz219⟩ := alloc_zero W214
          rw [← hW219]
          obtain ⟨g219, hg219⟩ : ∃ g, g = W214.heap.size := ⟨_, rfl⟩
          rw [← hg219] at hz219 ⊢
          have HG219 := gE hg219 HL_214
          have HX219_5 := nXq RG_214 hg219
          have HX219_6 := nXq RX_214 hg219
          have HX219_7 := nXq Na152_0_214 hg219
          have HX219_8 := nXq Na152_1_214 hg219
          have RG_219 := hKq RG_214 hb219
          have RX_219 := hKq RX_214 hb219
          have Na152_0_219 := hKq Na152_0_214 hb219
          have Na152_1_219 := hKq Na152_1_214 hb219
          have HF_219 := fCq HF_214 hb219
          have HL_219 := lT HL_214 hb219
          have RZ219_219 := zrq hz219
          clear hb219 hz219 hg219 hW219 HL_214 RG_214 RX_214 Na152_0_214 Na152_1_214 HF_214
          simp only [oED41, Act.put, zA, zB, zC]
          refine opW _ _ (i := 18) (oi := oED40) rfl (by kernel_rfl) (by rfl) (exec_alloc 23 rfl (.agg (zbs 32)) zero23 W219) (fun _ => (below_alloc W219 _).mono HL_219.out) ?_
          obtain ⟨W220, hW220, hb220, hz220⟩ := alloc_zero W219
          rw [← hW220]
          obtain ⟨g220, hg220⟩ : ∃ g, g = W219.heap.size := ⟨_, rfl⟩
          rw [← hg220] at hz220 ⊢
          have HG220 := gE hg220 HL_219
          have HX220_9 := nXq RG_219 hg220
          have HX220_10 := nXq RX_219 hg220
          have HX220_11 := nXq Na152_0_219 hg220
          have HX220_12 := nXq Na152_1_219 hg220
          have HX220_13 := nXq RZ219_219 hg220
          have RG_220 := hKq RG_219 hb220
          have RX_220 := hKq RX_219 hb220
          have Na152_0_220 := hKq Na152_0_219 hb220
          have Na152_1_220 := hKq Na152_1_219 hb220
          have RZ219_220 := hKq RZ219_219 hb220
          have HF_220 := fCq HF_219 hb220
          have HL_220 := lT HL_219 hb220
          have RZ220_220 := zrq hz220
          clear hb220 hz220 hg220 hW220 HL_219 RG_219 RX_219 Na152_0_219 Na152_1_219 RZ219_219 HF_219
          simp only [oED40, Act.put, zA, zB, zC]
          refine storeW_F (i := 20) (oi := oED42) rfl (by kernel_rfl) (by rfl) (.tmp 6) (.tmp 37) rfl (g220) 0 0 rfl [0] one rfl rfl RZ220_220.out (show 0 < 1 by omega) rfl ?_
          intro W221 hr221 hg221 hz221
          simp only [oED42, Act.put, zA, zB, zC]
          have RG_221 := hGq RG_220 hg221 HX220_9
          have RX_221 := hGq RX_220 hg221 HX220_10
          have Na152_0_221 := hGq Na152_0_220 hg221 HX220_11
          have Na152_1_221 := hGq Na152_1_220 hg221 HX220_12
          have RZ219_221 := hGq RZ219_220 hg221 HX220_13
          have RZ220_221 : Hid (RAt W221 g220 [one]) := Lib.hid hr221
          have HF_221 := fNq HF_220 hg221 HG220 HLO212
          have HL_221 := lG HL_220 hg221
          clear hr221 hg221 hz221 HL_220 RG_220 RX_220 Na152_0_220 Na152_1_220 RZ219_220 RZ220_220 HF_220
          refine storeW_F (i := 21) (oi := oED43) rfl (by kernel_rfl) (by rfl) (.tmp 7) (.tmp 46) rfl (g219) 0 0 rfl [0] xy rfl rfl RZ219_221.out (show 0 < 1 by omega) rfl ?_
          intro W222 hr222 hg222 hz222
          simp only [oED43, Act.put, zA, zB, zC]
          have RG_222 := hGq RG_221 hg222 HX219_5
          have RX_222 := hGq RX_221 hg222 HX219_6
          have Na152_0_222 := hGq Na152_0_221 hg222 HX219_7
          have Na152_1_222 := hGq Na152_1_221 hg222 HX219_8
          have RZ219_222 : Hid (RAt W222 g219 [xy]) := Lib.hid hr222
          have RZ220_222 := hGq RZ220_221 hg222 HX220_13
          have HF_222 := fNq HF_221 hg222 HG219 HLO212
          have HL_222 := lG HL_221 hg222
          clear hr222 hg222 hz222 HL_221 RG_221 RX_221 Na152_0_221 Na152_1_221 RZ219_221 RZ220_221 HF_221
          refine doneW (by kernel_rfl) ⟨rfl, ?_⟩ _
          exact ⟨g220, g219, RG_222.out, RX_222.out, Na152_0_222.out, Na152_1_222.out, RZ220_222.out, RZ219_222.out, HG220.out, HG219.out, (by have := HX220_13.out; omega), HF_222.out, rfl⟩
      · refine wpOp_value (i := 18) (oi := oED40) rfl (by rfl) (exec_alloc 23 rfl (.agg (zbs 32)) zero23 W213) ⟨fun _ => (below_alloc W213 _).mono HL_213.out, ?_⟩
        obtain ⟨W223, hW223, hb223, hz223⟩ := alloc_zero W213
        rw [← hW223]
        obtain ⟨g223, hg223⟩ : ∃ g, g = W213.heap.size := ⟨_, rfl⟩
        rw [← hg223] at hz223 ⊢
        have HG223 := gE hg223 HL_213
        have HX223_5 := nXq RG_213 hg223
        have HX223_6 := nXq RX_213 hg223
        have HX223_7 := nXq Na152_0_213 hg223
        have HX223_8 := nXq Na152_1_213 hg223
        have RG_223 := hKq RG_213 hb223
        have RX_223 := hKq RX_213 hb223
        have Na152_0_223 := hKq Na152_0_213 hb223
        have Na152_1_223 := hKq Na152_1_213 hb223
        have HF_223 := fCq HF_213 hb223
        have HL_223 := lT HL_213 hb223
        have RZ223_223 := zrq hz223
        clear hb223 hz223 hg223 hW223 HL_213 RG_213 RX_213 Na152_0_213 Na152_1_213 HF_213
        simp only [oED40, Act.put, zA, zB, zC]
        refine eachW [17, 19] (by kernel_rfl) (by simp) ?_
        intro k hk
        simp only [zM, zN, or_false] at hk
        rcases hk with rfl | rfl
        · refine wpOp_call (i := 17) (oi := oED39) rfl (by rfl) (exec_callL 25 [.tmp 41, .tmp 45] #[23, 23] rfl [vN x1, vN y1] rfl (CG25 _)) ((C3.out W223).mono ?_)
          rintro e224 W224 ⟨rfl, hb224⟩
          refine ⟨_, rfl, fun _ => hb224.mono HL_223.out, ?_⟩
          have RG_224 := hKq RG_223 hb224
          have RX_224 := hKq RX_223 hb224
          have Na152_0_224 := hKq Na152_0_223 hb224
          have Na152_1_224 := hKq Na152_1_223 hb224
          have RZ223_224 := hKq RZ223_223 hb224
          have HF_224 := fCq HF_223 hb224
          have HL_224 := lT HL_223 hb224
          clear hb224 HL_223 RG_223 RX_223 Na152_0_223 Na152_1_223 RZ223_223 HF_223
          simp only [oED39, Act.put, zA, zB, zC]
          refine opW _ _ (i := 19) (oi := oED41) rfl (by kernel_rfl) (by rfl) (exec_alloc 23 rfl (.agg (zbs 32)) zero23 W224) (fun _ => (below_alloc W224 _).mono HL_224.out) ?_
          obtain ⟨W225, hW225, hb225, hz225⟩ := alloc_zero W224
          rw [← hW225]
          obtain ⟨g225, hg225⟩ : ∃ g, g = W224.heap.size := ⟨_, rfl⟩
          rw [← hg225] at hz225 ⊢
          have HG225 := gE hg225 HL_224
          have HX225_9 := nXq RG_224 hg225
          have HX225_10 := nXq RX_224 hg225
          have HX225_11 := nXq Na152_0_224 hg225
          have HX225_12 := nXq Na152_1_224 hg225
          have HX225_13 := nXq RZ223_224 hg225
          have RG_225 := hKq RG_224 hb225
          have RX_225 := hKq RX_224 hb225
          have Na152_0_225 := hKq Na152_0_224 hb225
          have Na152_1_225 := hKq Na152_1_224 hb225
          have RZ223_225 := hKq RZ223_224 hb225
          have HF_225 := fCq HF_224 hb225
          have HL_225 := lT HL_224 hb225
          have RZ225_225 := zrq hz225
          clear hb225 hz225 hg225 hW225 HL_224 RG_224 RX_224 Na152_0_224 Na152_1_224 RZ223_224 HF_224
          simp only [oED41, Act.put, zA, zB, zC]
          refine storeW_F (i := 20) (oi := oED42) rfl (by kernel_rfl) (by rfl) (.tmp 6) (.tmp 37) rfl (g223) 0 0 rfl [0] one rfl rfl RZ223_225.out (show 0 < 1 by omega) rfl ?_
          intro W226 hr226 hg226 hz226
          simp only [oED42, Act.put, zA, zB, zC]
          have RG_226 := hGq RG_225 hg226 HX223_5
          have RX_226 := hGq RX_225 hg226 HX223_6
          have Na152_0_226 := hGq Na152_0_225 hg226 HX223_7
          have Na152_1_226 := hGq Na152_1_225 hg226 HX223_8
          have RZ223_226 : Hid (RAt W226 g223 [one]) := Lib.hid hr226
          have RZ225_226 := hGq RZ225_225 hg226 HX225_13
          have HF_226 := fNq HF_225 hg226 HG223 HLO212
          have HL_226 := lG HL_225 hg226
          clear hr226 hg226 hz226 HL_225 RG_225 RX_225 Na152_0_225 Na152_1_225 RZ223_225 RZ225_225 HF_225
          refine storeW_F (i := 21) (oi := oED43) rfl (by kernel_rfl) (by rfl) (.tmp 7) (.tmp 46) rfl (g225) 0 0 rfl [0] xy rfl rfl RZ225_226.out (show 0 < 1 by omega) rfl ?_
          intro W227 hr227 hg227 hz227
          simp only [oED43, Act.put, zA, zB, zC]
          have RG_227 := hGq RG_226 hg227 HX225_9
          have RX_227 := hGq RX_226 hg227 HX225_10
          have Na152_0_227 := hGq Na152_0_226 hg227 HX225_11
          have Na152_1_227 := hGq Na152_1_226 hg227 HX225_12
          have RZ223_227 := hGq RZ223_226 hg227 HX225_13
          have RZ225_227 : Hid (RAt W227 g225 [xy]) := Lib.hid hr227
          have HF_227 := fNq HF_226 hg227 HG225 HLO212
          have HL_227 := lG HL_226 hg227
          clear hr227 hg227 hz227 HL_226 RG_226 RX_226 Na152_0_226 Na152_1_226 RZ223_226 RZ225_226 HF_226
          refine doneW (by kernel_rfl) ⟨rfl, ?_⟩ _
          exact ⟨g223, g225, RG_227.out, RX_227.out, Na152_0_227.out, Na152_1_227.out, RZ223_227.out, RZ225_227.out, HG223.out, HG225.out, (by have := HX225_13.out; omega), HF_227.out, rfl⟩
        · refine wpOp_value (i := 19) (oi := oED41) rfl (by rfl) (exec_alloc 23 rfl (.agg (zbs 32)) zero23 W223) ⟨fun _ => (below_alloc W223 _).mono HL_223.out, ?_⟩
          obtain ⟨W228, hW228, hb228, hz228⟩ := alloc_zero W223
          rw [← hW228]
          obtain ⟨g228, hg228⟩ : ∃ g, g = W223.heap.size := ⟨_, rfl⟩
          rw [← hg228] at hz228 ⊢
          have HG228 := gE hg228 HL_223
          have HX228_9 := nXq RG_223 hg228
          have HX228_10 := nXq RX_223 hg228
          have HX228_11 := nXq Na152_0_223 hg228
          have HX228_12 := nXq Na152_1_223 hg228
          have HX228_13 := nXq RZ223_223 hg228
          have RG_228 := hKq RG_223 hb228
          have RX_228 := hKq RX_223 hb228
          have Na152_0_228 := hKq Na152_0_223 hb228
          have Na152_1_228 := hKq Na152_1_223 hb228
          have RZ223_228 := hKq RZ223_223 hb228
          have HF_228 := fCq HF_223 hb228
          have HL_228 := lT HL_223 hb228
          have RZ228_228 := zrq hz228
          clear hb228 hz228 hg228 hW228 HL_223 RG_223 RX_223 Na152_0_223 Na152_1_223 RZ223_223 HF_223
          simp only [oED41, Act.put, zA, zB, zC]
          refine callW (i := 17) (oi := oED39) rfl (by kernel_rfl) (by rfl) (exec_callL 25 [.tmp 41, .tmp 45] #[23, 23] rfl [vN x1, vN y1] rfl (CG25 _)) ((C3.out W228).mono ?_)
          rintro e229 W229 ⟨rfl, hb229⟩
          refine ⟨_, rfl, fun _ => hb229.mono HL_228.out, ?_⟩
          have RG_229 := hKq RG_228 hb229
          have RX_229 := hKq RX_228 hb229
          have Na152_0_229 := hKq Na152_0_228 hb229
          have Na152_1_229 := hKq Na152_1_228 hb229
          have RZ223_229 := hKq RZ223_228 hb229
          have RZ228_229 := hKq RZ228_228 hb229
          have HF_229 := fCq HF_228 hb229
          have HL_229 := lT HL_228 hb229
          clear hb229 HL_228 RG_228 RX_228 Na152_0_228 Na152_1_228 RZ223_228 RZ228_228 HF_228
          simp only [oED39, Act.put, zA, zB, zC]
          refine storeW_F (i := 20) (oi := oED42) rfl (by kernel_rfl) (by rfl) (.tmp 6) (.tmp 37) rfl (g223) 0 0 rfl [0] one rfl rfl RZ223_229.out (show 0 < 1 by omega) rfl ?_
          intro W230 hr230 hg230 hz230
          simp only [oED42, Act.put, zA, zB, zC]
          have RG_230 := hGq RG_229 hg230 HX223_5
          have RX_230 := hGq RX_229 hg230 HX223_6
          have Na152_0_230 := hGq Na152_0_229 hg230 HX223_7
          have Na152_1_230 := hGq Na152_1_229 hg230 HX223_8
          have RZ223_230 : Hid (RAt W230 g223 [one]) := Lib.hid hr230
          have RZ228_230 := hGq RZ228_229 hg230 HX228_13
          have HF_230 := fNq HF_229 hg230 HG223 HLO212
          have HL_230 := lG HL_229 hg230
          clear hr230 hg230 hz230 HL_229 RG_229 RX_229 Na152_0_229 Na152_1_229 RZ223_229 RZ228_229 HF_229
          refine storeW_F (i := 21) (oi := oED43) rfl (by kernel_rfl) (by rfl) (.tmp 7) (.tmp 46) rfl (g228) 0 0 rfl [0] xy rfl rfl RZ228_230.out (show 0 < 1 by omega) rfl ?_
          intro W231 hr231 hg231 hz231
          simp only [oED43, Act.put, zA, zB, zC]
          have RG_231 := hGq RG_230 hg231 HX228_9
          have RX_231 := hGq RX_230 hg231 HX228_10
          have Na152_0_231 := hGq Na152_0_230 hg231 HX228_11
          have Na152_1_231 := hGq Na152_1_230 hg231 HX228_12
          have RZ223_231 := hGq RZ223_230 hg231 HX228_13
          have RZ228_231 : Hid (RAt W231 g228 [xy]) := Lib.hid hr231
          have HF_231 := fNq HF_230 hg231 HG228 HLO212
          have HL_231 := lG HL_230 hg231
          clear hr231 hg231 hz231 HL_230 RG_230 RX_230 Na152_0_230 Na152_1_230 RZ223_230 RZ228_230 HF_230
          refine doneW (by kernel_rfl) ⟨rfl, ?_⟩ _
          exact ⟨g223, g228, RG_231.out, RX_231.out, Na152_0_231.out, Na152_1_231.out, RZ223_231.out, RZ228_231.out, HG223.out, HG228.out, (by have := HX228_13.out; omega), HF_231.out, rfl⟩
      · refine wpOp_value (i := 19) (oi := oED41) rfl (by rfl) (exec_alloc 23 rfl (.agg (zbs 32)) zero23 W213) ⟨fun _ => (below_alloc W213 _).mono HL_213.out, ?_⟩
        obtain ⟨W232, hW232, hb232, hz232⟩ := alloc_zero W213
        rw [← hW232]
        obtain ⟨g232, hg232⟩ : ∃ g, g = W213.heap.size := ⟨_, rfl⟩
        rw [← hg232] at hz232 ⊢
        have HG232 := gE hg232 HL_213
        have HX232_5 := nXq RG_213 hg232
        have HX232_6 := nXq RX_213 hg232
        have HX232_7 := nXq Na152_0_213 hg232
        have HX232_8 := nXq Na152_1_213 hg232
        have RG_232 := hKq RG_213 hb232
        have RX_232 := hKq RX_213 hb232
        have Na152_0_232 := hKq Na152_0_213 hb232
        have Na152_1_232 := hKq Na152_1_213 hb232
        have HF_232 := fCq HF_213 hb232
        have HL_232 := lT HL_213 hb232
        have RZ232_232 := zrq hz232
        clear hb232 hz232 hg232 hW232 HL_213 RG_213 RX_213 Na152_0_213 Na152_1_213 HF_213
        simp only [oED41, Act.put, zA, zB, zC]
        refine eachW [17, 18] (by kernel_rfl) (by simp) ?_
        intro k hk
        simp only [zM, zN, or_false] at hk
        rcases hk with rfl | rfl
        · refine wpOp_call (i := 17) (oi := oED39) rfl (by rfl) (exec_callL 25 [.tmp 41, .tmp 45] #[23, 23] rfl [vN x1, vN y1] rfl (CG25 _)) ((C3.out W232).mono ?_)
          rintro e233 W233 ⟨rfl, hb233⟩
          refine ⟨_, rfl, fun _ => hb233.mono HL_232.out, ?_⟩
          have RG_233 := hKq RG_232 hb233
          have RX_233 := hKq RX_232 hb233
          have Na152_0_233 := hKq Na152_0_232 hb233
          have Na152_1_233 := hKq Na152_1_232 hb233
          have RZ232_233 := hKq RZ232_232 hb233
          have HF_233 := fCq HF_232 hb233
          have HL_233 := lT HL_232 hb233
          clear hb233 HL_232 RG_232 RX_232 Na152_0_232 Na152_1_232 RZ232_232 HF_232
          simp only [oED39, Act.put, zA, zB, zC]
          refine opW _ _ (i := 18) (oi := oED40) rfl (by kernel_rfl) (by rfl) (exec_alloc 23 rfl (.agg (zbs 32)) zero23 W233) (fun _ => (below_alloc W233 _).mono HL_233.out) ?_
          obtain ⟨W234, hW234, hb234, hz234⟩ := alloc_zero W233
          rw [← hW234]
          obtain ⟨g234, hg234⟩ : ∃ g, g = W233.heap.size := ⟨_, rfl⟩
          rw [← hg234] at hz234 ⊢
          have HG234 := gE hg234 HL_233
          have HX234_9 := nXq RG_233 hg234
          have HX234_10 := nXq RX_233 hg234
          have HX234_11 := nXq Na152_0_233 hg234
          have HX234_12 := nXq Na152_1_233 hg234
          have HX234_13 := nXq RZ232_233 hg234
          have RG_234 := hKq RG_233 hb234
          have RX_234 := hKq RX_233 hb234
          have Na152_0_234 := hKq Na152_0_233 hb234
          have Na152_1_234 := hKq Na152_1_233 hb234
          have RZ232_234 := hKq RZ232_233 hb234
          have HF_234 := fCq HF_233 hb234
          have HL_234 := lT HL_233 hb234
          have RZ234_234 := zrq hz234
          clear hb234 hz234 hg234 hW234 HL_233 RG_233 RX_233 Na152_0_233 Na152_1_233 RZ232_233 HF_233
          simp only [oED40, Act.put, zA, zB, zC]
          refine storeW_F (i := 20) (oi := oED42) rfl (by kernel_rfl) (by rfl) (.tmp 6) (.tmp 37) rfl (g234) 0 0 rfl [0] one rfl rfl RZ234_234.out (show 0 < 1 by omega) rfl ?_
          intro W235 hr235 hg235 hz235
          simp only [oED42, Act.put, zA, zB, zC]
          have RG_235 := hGq RG_234 hg235 HX234_9
          have RX_235 := hGq RX_234 hg235 HX234_10
          have Na152_0_235 := hGq Na152_0_234 hg235 HX234_11
          have Na152_1_235 := hGq Na152_1_234 hg235 HX234_12
          have RZ232_235 := hGq RZ232_234 hg235 HX234_13
          have RZ234_235 : Hid (RAt W235 g234 [one]) := Lib.hid hr235
          have HF_235 := fNq HF_234 hg235 HG234 HLO212
          have HL_235 := lG HL_234 hg235
          clear hr235 hg235 hz235 HL_234 RG_234 RX_234 Na152_0_234 Na152_1_234 RZ232_234 RZ234_234 HF_234
          refine storeW_F (i := 21) (oi := oED43) rfl (by kernel_rfl) (by rfl) (.tmp 7) (.tmp 46) rfl (g232) 0 0 rfl [0] xy rfl rfl RZ232_235.out (show 0 < 1 by omega) rfl ?_
          intro W236 hr236 hg236 hz236
          simp only [oED43, Act.put, zA, zB, zC]
          have RG_236 := hGq RG_235 hg236 HX232_5
          have RX_236 := hGq RX_235 hg236 HX232_6
          have Na152_0_236 := hGq Na152_0_235 hg236 HX232_7
          have Na152_1_236 := hGq Na152_1_235 hg236 HX232_8
          have RZ232_236 : Hid (RAt W236 g232 [xy]) := Lib.hid hr236
          have RZ234_236 := hGq RZ234_235 hg236 HX234_13
          have HF_236 := fNq HF_235 hg236 HG232 HLO212
          have HL_236 := lG HL_235 hg236
          clear hr236 hg236 hz236 HL_235 RG_235 RX_235 Na152_0_235 Na152_1_235 RZ232_235 RZ234_235 HF_235
          refine doneW (by kernel_rfl) ⟨rfl, ?_⟩ _
          exact ⟨g234, g232, RG_236.out, RX_236.out, Na152_0_236.out, Na152_1_236.out, RZ234_236.out, RZ232_236.out, HG234.out, HG232.out, (by have := HX234_13.out; omega), HF_236.out, rfl⟩
        · refine wpOp_value (i := 18) (oi := oED40) rfl (by rfl) (exec_alloc 23 rfl (.agg (zbs 32)) zero23 W232) ⟨fun _ => (below_alloc W232 _).mono HL_232.out, ?_⟩
          obtain ⟨W237, hW237, hb237, hz237⟩ := alloc_zero W232
          rw [← hW237]
          obtain ⟨g237, hg237⟩ : ∃ g, g = W232.heap.size := ⟨_, rfl⟩
          rw [← hg237] at hz237 ⊢
          have HG237 := gE hg237 HL_232
          have HX237_9 := nXq RG_232 hg237
          have HX237_10 := nXq RX_232 hg237
          have HX237_11 := nXq Na152_0_232 hg237
          have HX237_12 := nXq Na152_1_232 hg237
          have HX237_13 := nXq RZ232_232 hg237
          have RG_237 := hKq RG_232 hb237
          have RX_237 := hKq RX_232 hb237
          have Na152_0_237 := hKq Na152_0_232 hb237
          have Na152_1_237 := hKq Na152_1_232 hb237
          have RZ232_237 := hKq RZ232_232 hb237
          have HF_237 := fCq HF_232 hb237
          have HL_237 := lT HL_232 hb237
          have RZ237_237 := zrq hz237
          clear hb237 hz237 hg237 hW237 HL_232 RG_232 RX_232 Na152_0_232 Na152_1_232 RZ232_232 HF_232
          simp only [oED40, Act.put, zA, zB, zC]
          refine callW (i := 17) (oi := oED39) rfl (by kernel_rfl) (by rfl) (exec_callL 25 [.tmp 41, .tmp 45] #[23, 23] rfl [vN x1, vN y1] rfl (CG25 _)) ((C3.out W237).mono ?_)
          rintro e238 W238 ⟨rfl, hb238⟩
          refine ⟨_, rfl, fun _ => hb238.mono HL_237.out, ?_⟩
          have RG_238 := hKq RG_237 hb238
          have RX_238 := hKq RX_237 hb238
          have Na152_0_238 := hKq Na152_0_237 hb238
          have Na152_1_238 := hKq Na152_1_237 hb238
          have RZ232_238 := hKq RZ232_237 hb238
          have RZ237_238 := hKq RZ237_237 hb238
          have HF_238 := fCq HF_237 hb238
          have HL_238 := lT HL_237 hb238
          clear hb238 HL_237 RG_237 RX_237 Na152_0_237 Na152_1_237 RZ232_237 RZ237_237 HF_237
          simp only [oED39, Act.put, zA, zB, zC]
          refine storeW_F (i := 20) (oi := oED42) rfl (by kernel_rfl) (by rfl) (.tmp 6) (.tmp 37) rfl (g237) 0 0 rfl [0] one rfl rfl RZ237_238.out (show 0 < 1 by omega) rfl ?_
          intro W239 hr239 hg239 hz239
          simp only [oED42, Act.put, zA, zB, zC]
          have RG_239 := hGq RG_238 hg239 HX237_9
          have RX_239 := hGq RX_238 hg239 HX237_10
          have Na152_0_239 := hGq Na152_0_238 hg239 HX237_11
          have Na152_1_239 := hGq Na152_1_238 hg239 HX237_12
          have RZ232_239 := hGq RZ232_238 hg239 HX237_13
          have RZ237_239 : Hid (RAt W239 g237 [one]) := Lib.hid hr239
          have HF_239 := fNq HF_238 hg239 HG237 HLO212
          have HL_239 := lG HL_238 hg239
          clear hr239 hg239 hz239 HL_238 RG_238 RX_238 Na152_0_238 Na152_1_238 RZ232_238 RZ237_238 HF_238
          refine storeW_F (i := 21) (oi := oED43) rfl (by kernel_rfl) (by rfl) (.tmp 7) (.tmp 46) rfl (g232) 0 0 rfl [0] xy rfl rfl RZ232_239.out (show 0 < 1 by omega) rfl ?_
          intro W240 hr240 hg240 hz240
          simp only [oED43, Act.put, zA, zB, zC]
          have RG_240 := hGq RG_239 hg240 HX232_5
          have RX_240 := hGq RX_239 hg240 HX232_6
          have Na152_0_240 := hGq Na152_0_239 hg240 HX232_7
          have Na152_1_240 := hGq Na152_1_239 hg240 HX232_8
          have RZ232_240 : Hid (RAt W240 g232 [xy]) := Lib.hid hr240
          have RZ237_240 := hGq RZ237_239 hg240 HX237_13
          have HF_240 := fNq HF_239 hg240 HG232 HLO212
          have HL_240 := lG HL_239 hg240
          clear hr240 hg240 hz240 HL_239 RG_239 RX_239 Na152_0_239 Na152_1_239 RZ232_239 RZ237_239 HF_239
          refine doneW (by kernel_rfl) ⟨rfl, ?_⟩ _
          exact ⟨g237, g232, RG_240.out, RX_240.out, Na152_0_240.out, Na152_1_240.out, RZ237_240.out, RZ232_240.out, HG237.out, HG232.out, (by have := HX237_13.out; omega), HF_240.out, rfl⟩
    · refine wpOp_value (i := 18) (oi := oED40) rfl (by rfl) (exec_alloc 23 rfl (.agg (zbs 32)) zero23 D212) ⟨fun _ => (below_alloc D212 _).mono HL_212.out, ?_⟩
      obtain ⟨W241, hW241, hb241, hz241⟩ := alloc_zero D212
      rw [← hW241]
      obtain ⟨g241, hg241⟩ : ∃ g, g = D212.heap.size := ⟨_, rfl⟩
      rw [← hg241] at hz241 ⊢
      have HG241 := gE hg241 HL_212
      have HX241_5 := nXq RG_212 hg241
      have HX241_6 := nXq RX_212 hg241
      have HX241_7 := nXq Na152_0_212 hg241
      have HX241_8 := nXq Na152_1_212 hg241
      have RG_241 := hKq RG_212 hb241
      have RX_241 := hKq RX_212 hb241
      have Na152_0_241 := hKq Na152_0_212 hb241
      have Na152_1_241 := hKq Na152_1_212 hb241
      have HF_241 := fCq HF_212 hb241
      have HL_241 := lT HL_212 hb241
      have RZ241_241 := zrq hz241
      clear hb241 hz241 hg241 hW241 HL_212 RG_212 RX_212 Na152_0_212 Na152_1_212 HF_212
      simp only [oED40, Act.put, zA, zB, zC]
      refine eachW [8, 19] (by kernel_rfl) (by simp) ?_
      intro k hk
      simp only [zM, zN, or_false] at hk
      rcases hk with rfl | rfl
      · refine wpOp_call (i := 8) (oi := oED38) rfl (by rfl) (exec_callL 25 [.tmp 32, .tmp 36] #[23, 23] rfl [vN z1, vN z1] rfl (CG25 _)) ((C2.out W241).mono ?_)
        rintro e242 W242 ⟨rfl, hb242⟩
        refine ⟨_, rfl, fun _ => hb242.mono HL_241.out, ?_⟩
        have RG_242 := hKq RG_241 hb242
        have RX_242 := hKq RX_241 hb242
        have Na152_0_242 := hKq Na152_0_241 hb242
        have Na152_1_242 := hKq Na152_1_241 hb242
        have RZ241_242 := hKq RZ241_241 hb242
        have HF_242 := fCq HF_241 hb242
        have HL_242 := lT HL_241 hb242
        clear hb242 HL_241 RG_241 RX_241 Na152_0_241 Na152_1_241 RZ241_241 HF_241
        simp only [oED38, Act.put, zA, zB, zC]
        refine eachW [17, 19] (by kernel_rfl) (by simp) ?_
        intro k hk
        simp only [zM, zN, or_false] at hk
        rcases hk with rfl | rfl
        · refine wpOp_call (i := 17) (oi := oED39) rfl (by rfl) (exec_callL 25 [.tmp 41, .tmp 45] #[23, 23] rfl [vN x1, vN y1] rfl (CG25 _)) ((C3.out W242).mono ?_)
          rintro e243 W243 ⟨rfl, hb243⟩
          refine ⟨_, rfl, fun _ => hb243.mono HL_242.out, ?_⟩
          have RG_243 := hKq RG_242 hb243
          have RX_243 := hKq RX_242 hb243
          have Na152_0_243 := hKq Na152_0_242 hb243
          have Na152_1_243 := hKq Na152_1_242 hb243
          have RZ241_243 := hKq RZ241_242 hb243
          have HF_243 := fCq HF_242 hb243
          have HL_243 := lT HL_242 hb243
          clear hb243 HL_242 RG_242 RX_242 Na152_0_242 Na152_1_242 RZ241_242 HF_242
          simp only [oED39, Act.put, zA, zB, zC]
          refine opW _ _ (i := 19) (oi := oED41) rfl (by kernel_rfl) (by rfl) (exec_alloc 23 rfl (.agg (zbs 32)) zero23 W243) (fun _ => (below_alloc W243 _).mono HL_243.out) ?_
          obtain ⟨W244, hW244, hb244, hz244⟩ := alloc_zero W243
          rw [← hW244]
          obtain ⟨g244, hg244⟩ : ∃ g, g = W243.heap.size := ⟨_, rfl⟩
          rw [← hg244] at hz244 ⊢
          have HG244 := gE hg244 HL_243
          have HX244_9 := nXq RG_243 hg244
          have HX244_10 := nXq RX_243 hg244
          have HX244_11 := nXq Na152_0_243 hg244
          have HX244_12 := nXq Na152_1_243 hg244
          have HX244_13 := nXq RZ241_243 hg244
          have RG_244 := hKq RG_243 hb244
          have RX_244 := hKq RX_243 hb244
          have Na152_0_244 := hKq Na152_0_243 hb244
          have Na152_1_244 := hKq Na152_1_243 hb244
          have RZ241_244 := hKq RZ241_243 hb244
          have HF_244 := fCq HF_243 hb244
          have HL_244 := lT HL_243 hb244
          have RZ244_244 := zrq hz244
          clear hb244 hz244 hg244 hW244 HL_243 RG_243 RX_243 Na152_0_243 Na152_1_243 RZ241_243 HF_243
          simp only [oED41, Act.put, zA, zB, zC]
          refine storeW_F (i := 20) (oi := oED42) rfl (by kernel_rfl) (by rfl) (.tmp 6) (.tmp 37) rfl (g241) 0 0 rfl [0] one rfl rfl RZ241_244.out (show 0 < 1 by omega) rfl ?_
          intro W245 hr245 hg245 hz245
          simp only [oED42, Act.put, zA, zB, zC]
          have RG_245 := hGq RG_244 hg245 HX241_5
          have RX_245 := hGq RX_244 hg245 HX241_6
          have Na152_0_245 := hGq Na152_0_244 hg245 HX241_7
          have Na152_1_245 := hGq Na152_1_244 hg245 HX241_8
          have RZ241_245 : Hid (RAt W245 g241 [one]) := Lib.hid hr245
          have RZ244_245 := hGq RZ244_244 hg245 HX244_13
          have HF_245 := fNq HF_244 hg245 HG241 HLO212
          have HL_245 := lG HL_244 hg245
          clear hr245 hg245 hz245 HL_244 RG_244 RX_244 Na152_0_244 Na152_1_244 RZ241_244 RZ244_244 HF_244
          refine storeW_F (i := 21) (oi := oED43) rfl (by kernel_rfl) (by rfl) (.tmp 7) (.tmp 46) rfl (g244) 0 0 rfl [0] xy rfl rfl RZ244_245.out (show 0 < 1 by omega) rfl ?_
          intro W246 hr246 hg246 hz246
          simp only [oED43, Act.put, zA, zB, zC]
          have RG_246 := hGq RG_245 hg246 HX244_9
          have RX_246 := hGq RX_245 hg246 HX244_10
          have Na152_0_246 := hGq Na152_0_245 hg246 HX244_11
          have Na152_1_246 := hGq Na152_1_245 hg246 HX244_12
          have RZ241_246 := hGq RZ241_245 hg246 HX244_13
          have RZ244_246 : Hid (RAt W246 g244 [xy]) := Lib.hid hr246
          have HF_246 := fNq HF_245 hg246 HG244 HLO212
          have HL_246 := lG HL_245 hg246
          clear hr246 hg246 hz246 HL_245 RG_245 RX_245 Na152_0_245 Na152_1_245 RZ241_245 RZ244_245 HF_245
          refine doneW (by kernel_rfl) ⟨rfl, ?_⟩ _
          exact ⟨g241, g244, RG_246.out, RX_246.out, Na152_0_246.out, Na152_1_246.out, RZ241_246.out, RZ244_246.out, HG241.out, HG244.out, (by have := HX244_13.out; omega), HF_246.out, rfl⟩
        · refine wpOp_value (i := 19) (oi := oED41) rfl (by rfl) (exec_alloc 23 rfl (.agg (zbs 32)) zero23 W242) ⟨fun _ => (below_alloc W242 _).mono HL_242.out, ?_⟩
          obtain ⟨W247, hW247, hb247, hz247⟩ := alloc_zero W242
          rw [← hW247]
          obtain ⟨g247, hg247⟩ : ∃ g, g = W242.heap.size := ⟨_, rfl⟩
          rw [← hg247] at hz247 ⊢
          have HG247 := gE hg247 HL_242
          have HX247_9 := nXq RG_242 hg247
          have HX247_10 := nXq RX_242 hg247
          have HX247_11 := nXq Na152_0_242 hg247
          have HX247_12 := nXq Na152_1_242 hg247
          have HX247_13 := nXq RZ241_242 hg247
          have RG_247 := hKq RG_242 hb247
          have RX_247 := hKq RX_242 hb247
          have Na152_0_247 := hKq Na152_0_242 hb247
          have Na152_1_247 := hKq Na152_1_242 hb247
          have RZ241_247 := hKq RZ241_242 hb247
          have HF_247 := fCq HF_242 hb247
          have HL_247 := lT HL_242 hb247
          have RZ247_247 := zrq hz247
          clear hb247 hz247 hg247 hW247 HL_242 RG_242 RX_242 Na152_0_242 Na152_1_242 RZ241_242 HF_242
          simp only [oED41, Act.put, zA, zB, zC]
          refine callW (i := 17) (oi := oED39) rfl (by kernel_rfl) (by rfl) (exec_callL 25 [.tmp 41, .tmp 45] #[23, 23] rfl [vN x1, vN y1] rfl (CG25 _)) ((C3.out W247).mono ?_)
          rintro e248 W248 ⟨rfl, hb248⟩
          refine ⟨_, rfl, fun _ => hb248.mono HL_247.out, ?_⟩
          have RG_248 := hKq RG_247 hb248
          have RX_248 := hKq RX_247 hb248
          have Na152_0_248 := hKq Na152_0_247 hb248
          have Na152_1_248 := hKq Na152_1_247 hb248
          have RZ241_248 := hKq RZ241_247 hb248
          have RZ247_248 := hKq RZ247_247 hb248
          have HF_248 := fCq HF_247 hb248
          have HL_248 := lT HL_247 hb248
          clear hb248 HL_247 RG_247 RX_247 Na152_0_247 Na152_1_247 RZ241_247 RZ247_247 HF_247
          simp only [oED39, Act.put, zA, zB, zC]
          refine storeW_F (i := 20) (oi := oED42) rfl (by kernel_rfl) (by rfl) (.tmp 6) (.tmp 37) rfl (g241) 0 0 rfl [0] one rfl rfl RZ241_248.out (show 0 < 1 by omega) rfl ?_
          intro W249 hr249 hg249 hz249
          simp only [oED42, Act.put, zA, zB, zC]
          have RG_249 := hGq RG_248 hg249 HX241_5
          have RX_249 := hGq RX_248 hg249 HX241_6
          have Na152_0_249 := hGq Na152_0_248 hg249 HX241_7
          have Na152_1_249 := hGq Na152_1_248 hg249 HX241_8
          have RZ241_249 : Hid (RAt W249 g241 [one]) := Lib.hid hr249
          have RZ247_249 := hGq RZ247_248 hg249 HX247_13
          have HF_249 := fNq HF_248 hg249 HG241 HLO212
          have HL_249 := lG HL_248 hg249
          clear hr249 hg249 hz249 HL_248 RG_248 RX_248 Na152_0_248 Na152_1_248 RZ241_248 RZ247_248 HF_248
          refine storeW_F (i := 21) (oi := oED43) rfl (by kernel_rfl) (by rfl) (.tmp 7) (.tmp 46) rfl (g247) 0 0 rfl [0] xy rfl rfl RZ247_249.out (show 0 < 1 by omega) rfl ?_
          intro W250 hr250 hg250 hz250
          simp only [oED43, Act.put, zA, zB, zC]
          have RG_250 := hGq RG_249 hg250 HX247_9
          have RX_250 := hGq RX_249 hg250 HX247_10
          have Na152_0_250 := hGq Na152_0_249 hg250 HX247_11
          have Na152_1_250 := hGq Na152_1_249 hg250 HX247_12
          have RZ241_250 := hGq RZ241_249 hg250 HX247_13
          have RZ247_250 : Hid (RAt W250 g247 [xy]) := Lib.hid hr250
          have HF_250 := fNq HF_249 hg250 HG247 HLO212
          have HL_250 := lG HL_249 hg250
          clear hr250 hg250 hz250 HL_249 RG_249 RX_249 Na152_0_249 Na152_1_249 RZ241_249 RZ247_249 HF_249
          refine doneW (by kernel_rfl) ⟨rfl, ?_⟩ _
          exact ⟨g241, g247, RG_250.out, RX_250.out, Na152_0_250.out, Na152_1_250.out, RZ241_250.out, RZ247_250.out, HG241.out, HG247.out, (by have := HX247_13.out; omega), HF_250.out, rfl⟩
      · refine wpOp_value (i := 19) (oi := oED41) rfl (by rfl) (exec_alloc 23 rfl (.agg (zbs 32)) zero23 W241) ⟨fun _ => (below_alloc W241 _).mono HL_241.out, ?_⟩
        obtain ⟨W251, hW251, hb251, hz251⟩ := alloc_zero W241
        rw [← hW251]
        obtain ⟨g251, hg251⟩ : ∃ g, g = W241.heap.size := ⟨_, rfl⟩
        rw [← hg251] at hz251 ⊢
        have HG251 := gE hg251 HL_241
        have HX251_9 := nXq RG_241 hg251
        have HX251_10 := nXq RX_241 hg251
        have HX251_11 := nXq Na152_0_241 hg251
        have HX251_12 := nXq Na152_1_241 hg251
        have HX251_13 := nXq RZ241_241 hg251
        have RG_251 := hKq RG_241 hb251
        have RX_251 := hKq RX_241 hb251
        have Na152_0_251 := hKq Na152_0_241 hb251
        have Na152_1_251 := hKq Na152_1_241 hb251
        have RZ241_251 := hKq RZ241_241 hb251
        have HF_251 := fCq HF_241 hb251
        have HL_251 := lT HL_241 hb251
        have RZ251_251 := zrq hz251
        clear hb251 hz251 hg251 hW251 HL_241 RG_241 RX_241 Na152_0_241 Na152_1_241 RZ241_241 HF_241
        simp only [oED41, Act.put, zA, zB, zC]
        refine callW (i := 8) (oi := oED38) rfl (by kernel_rfl) (by rfl) (exec_callL 25 [.tmp 32, .tmp 36] #[23, 23] rfl [vN z1, vN z1] rfl (CG25 _)) ((C2.out W251).mono ?_)
        rintro e252 W252 ⟨rfl, hb252⟩
        refine ⟨_, rfl, fun _ => hb252.mono HL_251.out, ?_⟩
        have RG_252 := hKq RG_251 hb252
        have RX_252 := hKq RX_251 hb252
        have Na152_0_252 := hKq Na152_0_251 hb252
        have Na152_1_252 := hKq Na152_1_251 hb252
        have RZ241_252 := hKq RZ241_251 hb252
        have RZ251_252 := hKq RZ251_251 hb252
        have HF_252 := fCq HF_251 hb252
        have HL_252 := lT HL_251 hb252
        clear hb252 HL_251 RG_251 RX_251 Na152_0_251 Na152_1_251 RZ241_251 RZ251_251 HF_251
        simp only [oED38, Act.put, zA, zB, zC]
        refine callW (i := 17) (oi := oED39) rfl (by kernel_rfl) (by rfl) (exec_callL 25 [.tmp 41, .tmp 45] #[23, 23] rfl [vN x1, vN y1] rfl (CG25 _)) ((C3.out W252).mono ?_)
        rintro e253 W253 ⟨rfl, hb253⟩
        refine ⟨_, rfl, fun _ => hb253.mono HL_252.out, ?_⟩
        have RG_253 := hKq RG_252 hb253
        have RX_253 := hKq RX_252 hb253
        have Na152_0_253 := hKq Na152_0_252 hb253
        have Na152_1_253 := hKq Na152_1_252 hb253
        have RZ241_253 := hKq RZ241_252 hb253
        have RZ251_253 := hKq RZ251_252 hb253
        have HF_253 := fCq HF_252 hb253
        have HL_253 := lT HL_252 hb253
        clear hb253 HL_252 RG_252 RX_252 Na152_0_252 Na152_1_252 RZ241_252 RZ251_252 HF_252
        simp only [oED39, Act.put, zA, zB, zC]
        refine storeW_F (i := 20) (oi := oED42) rfl (by kernel_rfl) (by rfl) (.tmp 6) (.tmp 37) rfl (g241) 0 0 rfl [0] one rfl rfl RZ241_253.out (show 0 < 1 by omega) rfl ?_
        intro W254 hr254 hg254 hz254
        simp only [oED42, Act.put, zA, zB, zC]
        have RG_254 := hGq RG_253 hg254 HX241_5
        have RX_254 := hGq RX_253 hg254 HX241_6
        have Na152_0_254 := hGq Na152_0_253 hg254 HX241_7
        have Na152_1_254 := hGq Na152_1_253 hg254 HX241_8
        have RZ241_254 : Hid (RAt W254 g241 [one]) := Lib.hid hr254
        have RZ251_254 := hGq RZ251_253 hg254 HX251_13
        have HF_254 := fNq HF_253 hg254 HG241 HLO212
        have HL_254 := lG HL_253 hg254
        clear hr254 hg254 hz254 HL_253 RG_253 RX_253 Na152_0_253 Na152_1_253 RZ241_253 RZ251_253 HF_253
        refine storeW_F (i := 21) (oi := oED43) rfl (by kernel_rfl) (by rfl) (.tmp 7) (.tmp 46) rfl (g251) 0 0 rfl [0] xy rfl rfl RZ251_254.out (show 0 < 1 by omega) rfl ?_
        intro W255 hr255 hg255 hz255
        simp only [oED43, Act.put, zA, zB, zC]
        have RG_255 := hGq RG_254 hg255 HX251_9
        have RX_255 := hGq RX_254 hg255 HX251_10
        have Na152_0_255 := hGq Na152_0_254 hg255 HX251_11
        have Na152_1_255 := hGq Na152_1_254 hg255 HX251_12
        have RZ241_255 := hGq RZ241_254 hg255 HX251_13
        have RZ251_255 : Hid (RAt W255 g251 [xy]) := Lib.hid hr255
        have HF_255 := fNq HF_254 hg255 HG251 HLO212
        have HL_255 := lG HL_254 hg255
        clear hr255 hg255 hz255 HL_254 RG_254 RX_254 Na152_0_254 Na152_1_254 RZ241_254 RZ251_254 HF_254
        refine doneW (by kernel_rfl) ⟨rfl, ?_⟩ _
        exact ⟨g241, g251, RG_255.out, RX_255.out, Na152_0_255.out, Na152_1_255.out, RZ241_255.out, RZ251_255.out, HG241.out, HG251.out, (by have := HX251_13.out; omega), HF_255.out, rfl⟩
    · refine wpOp_value (i := 19) (oi := oED41) rfl (by rfl) (exec_alloc 23 rfl (.agg (zbs 32)) zero23 D212) ⟨fun _ => (below_alloc D212 _).mono HL_212.out, ?_⟩
      obtain ⟨W256, hW256, hb256, hz256⟩ := alloc_zero D212
      rw [← hW256]
      obtain ⟨g256, hg256⟩ : ∃ g, g = D212.heap.size := ⟨_, rfl⟩
      rw [← hg256] at hz256 ⊢
      have HG256 := gE hg256 HL_212
      have HX256_5 := nXq RG_212 hg256
      have HX256_6 := nXq RX_212 hg256
      have HX256_7 := nXq Na152_0_212 hg256
      have HX256_8 := nXq Na152_1_212 hg256
      have RG_256 := hKq RG_212 hb256
      have RX_256 := hKq RX_212 hb256
      have Na152_0_256 := hKq Na152_0_212 hb256
      have Na152_1_256 := hKq Na152_1_212 hb256
      have HF_256 := fCq HF_212 hb256
      have HL_256 := lT HL_212 hb256
      have RZ256_256 := zrq hz256
      clear hb256 hz256 hg256 hW256 HL_212 RG_212 RX_212 Na152_0_212 Na152_1_212 HF_212
      simp only [oED41, Act.put, zA, zB, zC]
      refine eachW [8, 18] (by kernel_rfl) (by simp) ?_
      intro k hk
      simp only [zM, zN, or_false] at hk
      rcases hk with rfl | rfl
      · refine wpOp_call (i := 8) (oi := oED38) rfl (by rfl) (exec_callL 25 [.tmp 32, .tmp 36] #[23, 23] rfl [vN z1, vN z1] rfl (CG25 _)) ((C2.out W256).mono ?_)
        rintro e257 W257 ⟨rfl, hb257⟩
        refine ⟨_, rfl, fun _ => hb257.mono HL_256.out, ?_⟩
        have RG_257 := hKq RG_256 hb257
        have RX_257 := hKq RX_256 hb257
        have Na152_0_257 := hKq Na152_0_256 hb257
        have Na152_1_257 := hKq Na152_1_256 hb257
        have RZ256_257 := hKq RZ256_256 hb257
        have HF_257 := fCq HF_256 hb257
        have HL_257 := lT HL_256 hb257
        clear hb257 HL_256 RG_256 RX_256 Na152_0_256 Na152_1_256 RZ256_256 HF_256
        simp only [oED38, Act.put, zA, zB, zC]
        refine eachW [17, 18] (by kernel_rfl) (by simp) ?_
        intro k hk
        simp only [zM, zN, or_false] at hk
        rcases hk with rfl | rfl
        · refine wpOp_call (i := 17) (oi := oED39) rfl (by rfl) (exec_callL 25 [.tmp 41, .tmp 45] #[23, 23] rfl [vN x1, vN y1] rfl (CG25 _)) ((C3.out W257).mono ?_)
          rintro e258 W258 ⟨rfl, hb258⟩
          refine ⟨_, rfl, fun _ => hb258.mono HL_257.out, ?_⟩
          have RG_258 := hKq RG_257 hb258
          have RX_258 := hKq RX_257 hb258
          have Na152_0_258 := hKq Na152_0_257 hb258
          have Na152_1_258 := hKq Na152_1_257 hb258
          have RZ256_258 := hKq RZ256_257 hb258
          have HF_258 := fCq HF_257 hb258
          have HL_258 := lT HL_257 hb258
          clear hb258 HL_257 RG_257 RX_257 Na152_0_257 Na152_1_257 RZ256_257 HF_257
          simp only [oED39, Act.put, zA, zB, zC]
          refine opW _ _ (i := 18) (oi := oED40) rfl (by kernel_rfl) (by rfl) (exec_alloc 23 rfl (.agg (zbs 32)) zero23 W258) (fun _ => (below_alloc W258 _).mono HL_258.out) ?_
          obtain ⟨W259, hW259, hb259, hz259⟩ := alloc_zero W258
          rw [← hW259]
          obtain ⟨g259, hg259⟩ : ∃ g, g = W258.heap.size := ⟨_, rfl⟩
          rw [← hg259] at hz259 ⊢
          have HG259 := gE hg259 HL_258
          have HX259_9 := nXq RG_258 hg259
          have HX259_10 := nXq RX_258 hg259
          have HX259_11 := nXq Na152_0_258 hg259
          have HX259_12 := nXq Na152_1_258 hg259
          have HX259_13 := nXq RZ256_258 hg259
          have RG_259 := hKq RG_258 hb259
          have RX_259 := hKq RX_258 hb259
          have Na152_0_259 := hKq Na152_0_258 hb259
          have Na152_1_259 := hKq Na152_1_258 hb259
          have RZ256_259 := hKq RZ256_258 hb259
          have HF_259 := fCq HF_258 hb259
          have HL_259 := lT HL_258 hb259
          have RZ259_259 := zrq hz259
          clear hb259 hz259 hg259 hW259 HL_258 RG_258 RX_258 Na152_0_258 Na152_1_258 RZ256_258 HF_258
          simp only [oED40, Act.put, zA, zB, zC]
          refine storeW_F (i := 20) (oi := oED42) rfl (by kernel_rfl) (by rfl) (.tmp 6) (.tmp 37) rfl (g259) 0 0 rfl [0] one rfl rfl RZ259_259.out (show 0 < 1 by omega) rfl ?_
          intro W260 hr260 hg260 hz260
          simp only [oED42, Act.put, zA, zB, zC]
          have RG_260 := hGq RG_259 hg260 HX259_9
          have RX_260 := hGq RX_259 hg260 HX259_10
          have Na152_0_260 := hGq Na152_0_259 hg260 HX259_11
          have Na152_1_260 := hGq Na152_1_259 hg260 HX259_12
          have RZ256_260 := hGq RZ256_259 hg260 HX259_13
          have RZ259_260 : Hid (RAt W260 g259 [one]) := Lib.hid hr260
          have HF_260 := fNq HF_259 hg260 HG259 HLO212
          have HL_260 := lG HL_259 hg260
          clear hr260 hg260 hz260 HL_259 RG_259 RX_259 Na152_0_259 Na152_1_259 RZ256_259 RZ259_259 HF_259
          refine storeW_F (i := 21) (oi := oED43) rfl (by kernel_rfl) (by rfl) (.tmp 7) (.tmp 46) rfl (g256) 0 0 rfl [0] xy rfl rfl RZ256_260.out (show 0 < 1 by omega) rfl ?_
          intro W261 hr261 hg261 hz261
          simp only [oED43, Act.put, zA, zB, zC]
          have RG_261 := hGq RG_260 hg261 HX256_5
          have RX_261 := hGq RX_260 hg261 HX256_6
          have Na152_0_261 := hGq Na152_0_260 hg261 HX256_7
          have Na152_1_261 := hGq Na152_1_260 hg261 HX256_8
          have RZ256_261 : Hid (RAt W261 g256 [xy]) := Lib.hid hr261
          have RZ259_261 := hGq RZ259_260 hg261 HX259_13
          have HF_261 := fNq HF_260 hg261 HG256 HLO212
          have HL_261 := lG HL_260 hg261
          clear hr261 hg261 hz261 HL_260 RG_260 RX_260 Na152_0_260 Na152_1_260 RZ256_260 RZ259_260 HF_260
          refine doneW (by kernel_rfl) ⟨rfl, ?_⟩ _
          exact ⟨g259, g256, RG_261.out, RX_261.out, Na152_0_261.out, Na152_1_261.out, RZ259_261.out, RZ256_261.out, HG259.out, HG256.out, (by have := HX259_13.out; omega), HF_261.out, rfl⟩
        · refine wpOp_value (i := 18) (oi := oED40) rfl (by rfl) (exec_alloc 23 rfl (.agg (zbs 32)) zero23 W257) ⟨fun _ => (below_alloc W257 _).mono HL_257.out, ?_⟩
          obtain ⟨W262, hW262, hb262, hz262⟩ := alloc_zero W257
          rw [← hW262]
          obtain ⟨g262, hg262⟩ : ∃ g, g = W257.heap.size := ⟨_, rfl⟩
          rw [← hg262] at hz262 ⊢
          have HG262 := gE hg262 HL_257
          have HX262_9 := nXq RG_257 hg262
          have HX262_10 := nXq RX_257 hg262
          have HX262_11 := nXq Na152_0_257 hg262
          have HX262_12 := nXq Na152_1_257 hg262
          have HX262_13 := nXq RZ256_257 hg262
          have RG_262 := hKq RG_257 hb262
          have RX_262 := hKq RX_257 hb262
          have Na152_0_262 := hKq Na152_0_257 hb262
          have Na152_1_262 := hKq Na152_1_257 hb262
          have RZ256_262 := hKq RZ256_257 hb262
          have HF_262 := fCq HF_257 hb262
          have HL_262 := lT HL_257 hb262
          have RZ262_262 := zrq hz262
          clear hb262 hz262 hg262 hW262 HL_257 RG_257 RX_257 Na152_0_257 Na152_1_257 RZ256_257 HF_257
          simp only [oED40, Act.put, zA, zB, zC]
          refine callW (i := 17) (oi := oED39) rfl (by kernel_rfl) (by rfl) (exec_callL 25 [.tmp 41, .tmp 45] #[23, 23] rfl [vN x1, vN y1] rfl (CG25 _)) ((C3.out W262).mono ?_)
          rintro e263 W263 ⟨rfl, hb263⟩
          refine ⟨_, rfl, fun _ => hb263.mono HL_262.out, ?_⟩
          have RG_263 := hKq RG_262 hb263
          have RX_263 := hKq RX_262 hb263
          have Na152_0_263 := hKq Na152_0_262 hb263
          have Na152_1_263 := hKq Na152_1_262 hb263
          have RZ256_263 := hKq RZ256_262 hb263
          have RZ262_263 := hKq RZ262_262 hb263
          have HF_263 := fCq HF_262 hb263
          have HL_263 := lT HL_262 hb263
          clear hb263 HL_262 RG_262 RX_262 Na152_0_262 Na152_1_262 RZ256_262 RZ262_262 HF_262
          simp only [oED39, Act.put, zA, zB, zC]
          refine storeW_F (i := 20) (oi := oED42) rfl (by kernel_rfl) (by rfl) (.tmp 6) (.tmp 37) rfl (g262) 0 0 rfl [0] one rfl rfl RZ262_263.out (show 0 < 1 by omega) rfl ?_
          intro W264 hr264 hg264 hz264
          simp only [oED42, Act.put, zA, zB, zC]
          have RG_264 := hGq RG_263 hg264 HX262_9
          have RX_264 := hGq RX_263 hg264 HX262_10
          have Na152_0_264 := hGq Na152_0_263 hg264 HX262_11
          have Na152_1_264 := hGq Na152_1_263 hg264 HX262_12
          have RZ256_264 := hGq RZ256_263 hg264 HX262_13
          have RZ262_264 : Hid (RAt W264 g262 [one]) := Lib.hid hr264
          have HF_264 := fNq HF_263 hg264 HG262 HLO212
          have HL_264 := lG HL_263 hg264
          clear hr264 hg264 hz264 HL_263 RG_263 RX_263 Na152_0_263 Na152_1_263 RZ256_263 RZ262_263 HF_263
          refine storeW_F (i := 21) (oi := oED43) rfl (by kernel_rfl) (by rfl) (.tmp 7) (.tmp 46) rfl (g256) 0 0 rfl [0] xy rfl rfl RZ256_264.out (show 0 < 1 by omega) rfl ?_
          intro W265 hr265 hg265 hz265
          simp only [oED43, Act.put, zA, zB, zC]
          have RG_265 := hGq RG_264 hg265 HX256_5
          have RX_265 := hGq RX_264 hg265 HX256_6
          have Na152_0_265 := hGq Na152_0_264 hg265 HX256_7
          have Na152_1_265 := hGq Na152_1_264 hg265 HX256_8
          have RZ256_265 : Hid (RAt W265 g256 [xy]) := Lib.hid hr265
          have RZ262_265 := hGq RZ262_264 hg265 HX262_13
          have HF_265 := fNq HF_264 hg265 HG256 HLO212
          have HL_265 := lG HL_264 hg265
          clear hr265 hg265 hz265 HL_264 RG_264 RX_264 Na152_0_264 Na152_1_264 RZ256_264 RZ262_264 HF_264
          refine doneW (by kernel_rfl) ⟨rfl, ?_⟩ _
          exact ⟨g262, g256, RG_265.out, RX_265.out, Na152_0_265.out, Na152_1_265.out, RZ262_265.out, RZ256_265.out, HG262.out, HG256.out, (by have := HX262_13.out; omega), HF_265.out, rfl⟩
      · refine wpOp_value (i := 18) (oi := oED40) rfl (by rfl) (exec_alloc 23 rfl (.agg (zbs 32)) zero23 W256) ⟨fun _ => (below_alloc W256 _).mono HL_256.out, ?_⟩
        obtain ⟨W266, hW266, hb266, hz266⟩ := alloc_zero W256
        rw [← hW266]
        obtain ⟨g266, hg266⟩ : ∃ g, g = W256.heap.size := ⟨_, rfl⟩
        rw [← hg266] at hz266 ⊢
        have HG266 := gE hg266 HL_256
        have HX266_9 := nXq RG_256 hg266
        have HX266_10 := nXq RX_256 hg266
        have HX266_11 := nXq Na152_0_256 hg266
        have HX266_12 := nXq Na152_1_256 hg266
        have HX266_13 := nXq RZ256_256 hg266
        have RG_266 := hKq RG_256 hb266
        have RX_266 := hKq RX_256 hb266
        have Na152_0_266 := hKq Na152_0_256 hb266
        have Na152_1_266 := hKq Na152_1_256 hb266
        have RZ256_266 := hKq RZ256_256 hb266
        have HF_266 := fCq HF_256 hb266
        have HL_266 := lT HL_256 hb266
        have RZ266_266 := zrq hz266
        clear hb266 hz266 hg266 hW266 HL_256 RG_256 RX_256 Na152_0_256 Na152_1_256 RZ256_256 HF_256
        simp only [oED40, Act.put, zA, zB, zC]
        refine callW (i := 8) (oi := oED38) rfl (by kernel_rfl) (by rfl) (exec_callL 25 [.tmp 32, .tmp 36] #[23, 23] rfl [vN z1, vN z1] rfl (CG25 _)) ((C2.out W266).mono ?_)
        rintro e267 W267 ⟨rfl, hb267⟩
        refine ⟨_, rfl, fun _ => hb267.mono HL_266.out, ?_⟩
        have RG_267 := hKq RG_266 hb267
        have RX_267 := hKq RX_266 hb267
        have Na152_0_267 := hKq Na152_0_266 hb267
        have Na152_1_267 := hKq Na152_1_266 hb267
        have RZ256_267 := hKq RZ256_266 hb267
        have RZ266_267 := hKq RZ266_266 hb267
        have HF_267 := fCq HF_266 hb267
        have HL_267 := lT HL_266 hb267
        clear hb267 HL_266 RG_266 RX_266 Na152_0_266 Na152_1_266 RZ256_266 RZ266_266 HF_266
        simp only [oED38, Act.put, zA, zB, zC]
        refine callW (i := 17) (oi := oED39) rfl (by kernel_rfl) (by rfl) (exec_callL 25 [.tmp 41, .tmp 45] #[23, 23] rfl [vN x1, vN y1] rfl (CG25 _)) ((C3.out W267).mono ?_)
        rintro e268 W268 ⟨rfl, hb268⟩
        refine ⟨_, rfl, fun _ => hb268.mono HL_267.out, ?_⟩
        have RG_268 := hKq RG_267 hb268
        have RX_268 := hKq RX_267 hb268
        have Na152_0_268 := hKq Na152_0_267 hb268
        have Na152_1_268 := hKq Na152_1_267 hb268
        have RZ256_268 := hKq RZ256_267 hb268
        have RZ266_268 := hKq RZ266_267 hb268
        have HF_268 := fCq HF_267 hb268
        have HL_268 := lT HL_267 hb268
        clear hb268 HL_267 RG_267 RX_267 Na152_0_267 Na152_1_267 RZ256_267 RZ266_267 HF_267
        simp only [oED39, Act.put, zA, zB, zC]
        refine storeW_F (i := 20) (oi := oED42) rfl (by kernel_rfl) (by rfl) (.tmp 6) (.tmp 37) rfl (g266) 0 0 rfl [0] one rfl rfl RZ266_268.out (show 0 < 1 by omega) rfl ?_
        intro W269 hr269 hg269 hz269
        simp only [oED42, Act.put, zA, zB, zC]
        have RG_269 := hGq RG_268 hg269 HX266_9
        have RX_269 := hGq RX_268 hg269 HX266_10
        have Na152_0_269 := hGq Na152_0_268 hg269 HX266_11
        have Na152_1_269 := hGq Na152_1_268 hg269 HX266_12
        have RZ256_269 := hGq RZ256_268 hg269 HX266_13
        have RZ266_269 : Hid (RAt W269 g266 [one]) := Lib.hid hr269
        have HF_269 := fNq HF_268 hg269 HG266 HLO212
        have HL_269 := lG HL_268 hg269
        clear hr269 hg269 hz269 HL_268 RG_268 RX_268 Na152_0_268 Na152_1_268 RZ256_268 RZ266_268 HF_268
        refine storeW_F (i := 21) (oi := oED43) rfl (by kernel_rfl) (by rfl) (.tmp 7) (.tmp 46) rfl (g256) 0 0 rfl [0] xy rfl rfl RZ256_269.out (show 0 < 1 by omega) rfl ?_
        intro W270 hr270 hg270 hz270
        simp only [oED43, Act.put, zA, zB, zC]
        have RG_270 := hGq RG_269 hg270 HX256_5
        have RX_270 := hGq RX_269 hg270 HX256_6
        have Na152_0_270 := hGq Na152_0_269 hg270 HX256_7
        have Na152_1_270 := hGq Na152_1_269 hg270 HX256_8
        have RZ256_270 : Hid (RAt W270 g256 [xy]) := Lib.hid hr270
        have RZ266_270 := hGq RZ266_269 hg270 HX266_13
        have HF_270 := fNq HF_269 hg270 HG256 HLO212
        have HL_270 := lG HL_269 hg270
        clear hr270 hg270 hz270 HL_269 RG_269 RX_269 Na152_0_269 Na152_1_269 RZ256_269 RZ266_269 HF_269
        refine doneW (by kernel_rfl) ⟨rfl, ?_⟩ _
        exact ⟨g266, g256, RG_270.out, RX_270.out, Na152_0_270.out, Na152_1_270.out, RZ266_270.out, RZ256_270.out, HG266.out, HG256.out, (by have := HX266_13.out; omega), HF_270.out, rfl⟩
  rintro a' v271 ⟨a212_0, a212_1, h0, h1, h2, h3, h4, h5, k0, k1, q0, hF, rfl⟩
  have RG_271 := Lib.hid h0
  have RX_271 := Lib.hid h1
  have Na152_0_271 := Lib.hid h2
  have Na152_1_271 := Lib.hid h3
  have Na212_0_271 := Lib.hid h4
  have Na212_1_271 := Lib.hid h5
  have HNE271_5 : Hid (g ≠ a212_0) := Lib.hid (by have := HLT212_0.out; omega)
  have HNE271_6 : Hid (gp ≠ a212_0) := Lib.hid (by have := HLT212_1.out; omega)
  have HNE271_7 : Hid (a152_0 ≠ a212_0) := Lib.hid (by have := HLT212_2.out; omega)
  have HNE271_8 : Hid (a152_1 ≠ a212_0) := Lib.hid (by have := HLT212_3.out; omega)
  have HGE271_0 : Hid (w.heap.size ≤ a212_0) := Lib.hid (by have := HLO212.out; omega)
  have HNE271_9 : Hid (g ≠ a212_1) := Lib.hid (by have := HLT212_0.out; omega)
  have HNE271_10 : Hid (gp ≠ a212_1) := Lib.hid (by have := HLT212_1.out; omega)
  have HNE271_11 : Hid (a152_0 ≠ a212_1) := Lib.hid (by have := HLT212_2.out; omega)
  have HNE271_12 : Hid (a152_1 ≠ a212_1) := Lib.hid (by have := HLT212_3.out; omega)
  have HGE271_1 : Hid (w.heap.size ≤ a212_1) := Lib.hid (by have := HLO212.out; omega)
  have HNE271_13 := Lib.hid q0
  have HF_271 := Lib.hid hF
  clear h0 h1 h2 h3 h4 h5 k0 k1 q0 hF HLT212_0 HLT212_1 HLT212_2 HLT212_3 HLO212 RG_211 RX_211 Na152_0_211 Na152_1_211 HF_211
  go_wp2_with (first | ((with_reducible show wpList _ _ _ (⟨_, .load 23 (.tmp 7), _, _, _, _⟩ :: _) _ _); go_must (refine wpList_exec rfl (vN xy) (exec_loadF (.tmp 7) rfl (a212_1) 0 0 rfl [xy] xy rfl Na212_1_271.out rfl) ?_)) | fail)
  refine (C4.out _).mono ?_
  rintro e272 x272 ⟨rfl, hb272⟩
  have RG_272 := hKq RG_271 hb272
  have RX_272 := hKq RX_271 hb272
  have Na152_0_272 := hKq Na152_0_271 hb272
  have Na152_1_272 := hKq Na152_1_271 hb272
  have Na212_0_272 := hKq Na212_0_271 hb272
  have Na212_1_272 := hKq Na212_1_271 hb272
  have HF_272 := fCq HF_271 hb272
  clear hb272 RG_271 RX_271 Na152_0_271 Na152_1_271 Na212_0_271 Na212_1_271 HF_271
  go_wp2_with (first | ((with_reducible show wpList _ _ _ (⟨none, .store 23 (.tmp 7) (.tmp 49), _, _, _, _⟩ :: _) _ _); go_must (refine wpList_storeF rfl (.tmp 7) (.tmp 49) rfl (a212_1) 0 0 rfl [xy] x rfl rfl Na212_1_272.out (show 0 < 1 by omega) ?_; intro y273 hr273 hg273 hz273; have RG_273 := hGq RG_272 hg273 HNE271_9; have RX_273 := hGq RX_272 hg273 HNE271_10; have Na152_0_273 := hGq Na152_0_272 hg273 HNE271_11; have Na152_1_273 := hGq Na152_1_272 hg273 HNE271_12; have Na212_0_273 := hGq Na212_0_272 hg273 HNE271_13; have Na212_1_273 : Hid (RAt y273 a212_1 [x]) := Lib.hid hr273; have HF_273 : Hid (Keeps (· = g) w y273) := Lib.hid (HF_272.out.newrow hg273 HGE271_1.out); clear hr273 hg273 hz273 RG_272 RX_272 Na152_0_272 Na152_1_272 Na212_0_272 Na212_1_272 HF_272)) | ((with_reducible show wpList _ _ _ (⟨_, .load 23 (.tmp 5), _, _, _, _⟩ :: _) _ _); go_must (refine wpList_exec rfl (vN yy) (exec_loadF (.tmp 5) rfl (a152_1) 0 0 rfl [yy] yy rfl Na152_1_273.out rfl) ?_)) | ((with_reducible show wpList _ _ _ (⟨_, .load 23 (.tmp 4), _, _, _, _⟩ :: _) _ _); go_must (refine wpList_exec rfl (vN xx) (exec_loadF (.tmp 4) rfl (a152_0) 0 0 rfl [xx] xx rfl Na152_0_273.out rfl) ?_)) | fail)
  refine (C5.out _).mono ?_
  rintro e274 x274 ⟨rfl, hb274⟩
  have RG_274 := hKq RG_273 hb274
  have RX_274 := hKq RX_273 hb274
  have Na152_0_274 := hKq Na152_0_273 hb274
  have Na152_1_274 := hKq Na152_1_273 hb274
  have Na212_0_274 := hKq Na212_0_273 hb274
  have Na212_1_274 := hKq Na212_1_273 hb274
  have HF_274 := fCq HF_273 hb274
  clear hb274 RG_273 RX_273 Na152_0_273 Na152_1_273 Na212_0_273 Na212_1_273 HF_273
  go_wp2_with (first | ((with_reducible show wpList _ _ _ (⟨some 8, .alloc 23, _, _, _, _⟩ :: _) _ _); go_must (refine wpList_alloc_row rfl 23 rfl (.agg (zbs 32)) zero23 ?_; intro u275 ha275 hza275 hga275; have HA275 := Lib.hid ha275; have HZA275 := Lib.hid hza275; have HGA275 := Lib.hid hga275; clear ha275 hza275 hga275)) | ((with_reducible show wpList _ _ _ (⟨none, .store 23 (.tmp 8) (.tmp 52), _, _, _, _⟩ :: _) _ _); go_must (refine wpList_storeF rfl (.tmp 8) (.tmp 52) rfl (x274.heap.size) 0 0 rfl [0] y rfl rfl (zrow (k := 1) HA275.out) (show 0 < 1 by omega) ?_; intro y275 hr275 hg275 hz275; have RG_275 := Lib.hid ((RG_274.out.grown HGA275.out (by simp)).grown hg275 (by have := RG_274.out.lt; simp; omega)); have RX_275 := Lib.hid ((RX_274.out.grown HGA275.out (by simp)).grown hg275 (by have := RX_274.out.lt; simp; omega)); have Na152_0_275 := Lib.hid ((Na152_0_274.out.grown HGA275.out (by simp)).grown hg275 (by have := Na152_0_274.out.lt; simp; omega)); have Na152_1_275 := Lib.hid ((Na152_1_274.out.grown HGA275.out (by simp)).grown hg275 (by have := Na152_1_274.out.lt; simp; omega)); have Na212_0_275 := Lib.hid ((Na212_0_274.out.grown HGA275.out (by simp)).grown hg275 (by have := Na212_0_274.out.lt; simp; omega)); have Na212_1_275 := Lib.hid ((Na212_1_274.out.grown HGA275.out (by simp)).grown hg275 (by have := Na212_1_274.out.lt; simp; omega)); have Ng8_275 : Hid (RAt y275 x274.heap.size [y]) := Lib.hid hr275; have HF_275 : Hid (Keeps (· = g) w y275) := Lib.hid ((HF_274.out.alloc HGA275.out).newrow hg275 HF_274.out.size); have HNE275_14 : Hid (g ≠ x274.heap.size) := Lib.hid (by have := RG_274.out.lt; omega); have HNE275_15 : Hid (gp ≠ x274.heap.size) := Lib.hid (by have := RX_274.out.lt; omega); have HNE275_16 : Hid (a152_0 ≠ x274.heap.size) := Lib.hid (by have := Na152_0_274.out.lt; omega); have HNE275_17 : Hid (a152_1 ≠ x274.heap.size) := Lib.hid (by have := Na152_1_274.out.lt; omega); have HNE275_18 : Hid (a212_0 ≠ x274.heap.size) := Lib.hid (by have := Na212_0_274.out.lt; omega); have HNE275_19 : Hid (a212_1 ≠ x274.heap.size) := Lib.hid (by have := Na212_1_274.out.lt; omega); have HGE275 : Hid (w.heap.size ≤ x274.heap.size) := Lib.hid HF_274.out.size; clear hr275 hg275 hz275 HA275 HZA275 HGA275 RG_274 RX_274 Na152_0_274 Na152_1_274 Na212_0_274 Na212_1_274 HF_274)) | ((with_reducible show wpList _ _ _ (⟨_, .load 23 (.tmp 5), _, _, _, _⟩ :: _) _ _); go_must (refine wpList_exec rfl (vN yy) (exec_loadF (.tmp 5) rfl (a152_1) 0 0 rfl [yy] yy rfl Na152_1_275.out rfl) ?_)) | ((with_reducible show wpList _ _ _ (⟨_, .load 23 (.tmp 4), _, _, _, _⟩ :: _) _ _); go_must (refine wpList_exec rfl (vN xx) (exec_loadF (.tmp 4) rfl (a152_0) 0 0 rfl [xx] xx rfl Na152_0_275.out rfl) ?_)) | fail)
  generalize x274.heap.size = g8 at *
  refine (C6.out _).mono ?_
  rintro e276 x276 ⟨rfl, hb276⟩
  have RG_276 := hKq RG_275 hb276
  have RX_276 := hKq RX_275 hb276
  have Na152_0_276 := hKq Na152_0_275 hb276
  have Na152_1_276 := hKq Na152_1_275 hb276
  have Na212_0_276 := hKq Na212_0_275 hb276
  have Na212_1_276 := hKq Na212_1_275 hb276
  have Ng8_276 := hKq Ng8_275 hb276
  have HF_276 := fCq HF_275 hb276
  clear hb276 RG_275 RX_275 Na152_0_275 Na152_1_275 Na212_0_275 Na212_1_275 Ng8_275 HF_275
  go_wp2_with (first | ((with_reducible show wpList _ _ _ (⟨some 9, .alloc 23, _, _, _, _⟩ :: _) _ _); go_must (refine wpList_alloc_row rfl 23 rfl (.agg (zbs 32)) zero23 ?_; intro u277 ha277 hza277 hga277; have HA277 := Lib.hid ha277; have HZA277 := Lib.hid hza277; have HGA277 := Lib.hid hga277; clear ha277 hza277 hga277)) | ((with_reducible show wpList _ _ _ (⟨none, .store 23 (.tmp 9) (.tmp 55), _, _, _, _⟩ :: _) _ _); go_must (refine wpList_storeF rfl (.tmp 9) (.tmp 55) rfl (x276.heap.size) 0 0 rfl [0] ox rfl rfl (zrow (k := 1) HA277.out) (show 0 < 1 by omega) ?_; intro y277 hr277 hg277 hz277; have RG_277 := Lib.hid ((RG_276.out.grown HGA277.out (by simp)).grown hg277 (by have := RG_276.out.lt; simp; omega)); have RX_277 := Lib.hid ((RX_276.out.grown HGA277.out (by simp)).grown hg277 (by have := RX_276.out.lt; simp; omega)); have Na152_0_277 := Lib.hid ((Na152_0_276.out.grown HGA277.out (by simp)).grown hg277 (by have := Na152_0_276.out.lt; simp; omega)); have Na152_1_277 := Lib.hid ((Na152_1_276.out.grown HGA277.out (by simp)).grown hg277 (by have := Na152_1_276.out.lt; simp; omega)); have Na212_0_277 := Lib.hid ((Na212_0_276.out.grown HGA277.out (by simp)).grown hg277 (by have := Na212_0_276.out.lt; simp; omega)); have Na212_1_277 := Lib.hid ((Na212_1_276.out.grown HGA277.out (by simp)).grown hg277 (by have := Na212_1_276.out.lt; simp; omega)); have Ng8_277 := Lib.hid ((Ng8_276.out.grown HGA277.out (by simp)).grown hg277 (by have := Ng8_276.out.lt; simp; omega)); have Ng9_277 : Hid (RAt y277 x276.heap.size [ox]) := Lib.hid hr277; have HF_277 : Hid (Keeps (· = g) w y277) := Lib.hid ((HF_276.out.alloc HGA277.out).newrow hg277 HF_276.out.size); have HNE277_20 : Hid (g ≠ x276.heap.size) := Lib.hid (by have := RG_276.out.lt; omega); have HNE277_21 : Hid (gp ≠ x276.heap.size) := Lib.hid (by have := RX_276.out.lt; omega); have HNE277_22 : Hid (a152_0 ≠ x276.heap.size) := Lib.hid (by have := Na152_0_276.out.lt; omega); have HNE277_23 : Hid (a152_1 ≠ x276.heap.size) := Lib.hid (by have := Na152_1_276.out.lt; omega); have HNE277_24 : Hid (a212_0 ≠ x276.heap.size) := Lib.hid (by have := Na212_0_276.out.lt; omega); have HNE277_25 : Hid (a212_1 ≠ x276.heap.size) := Lib.hid (by have := Na212_1_276.out.lt; omega); have HNE277_26 : Hid (g8 ≠ x276.heap.size) := Lib.hid (by have := Ng8_276.out.lt; omega); have HGE277 : Hid (w.heap.size ≤ x276.heap.size) := Lib.hid HF_276.out.size; clear hr277 hg277 hz277 HA277 HZA277 HGA277 RG_276 RX_276 Na152_0_276 Na152_1_276 Na212_0_276 Na212_1_276 Ng8_276 HF_276)) | fail)
  generalize x276.heap.size = g9 at *
  have HLT278_0 := lR RG_277
  have HLT278_1 := lR RX_277
  have HLT278_2 := lR Na152_0_277
  have HLT278_3 := lR Na152_1_277
  have HLT278_4 := lR Na212_0_277
  have HLT278_5 := lR Na212_1_277
  have HLT278_6 := lR Ng8_277
  have HLT278_7 := lR Ng9_277
  have HLO278 : Hid (w.heap.size ≤ y277.heap.size) := Lib.hid HF_277.out.size
  refine region_split (fun a' W => ∃ a278_0, RAt W g [r0, r1, r2, r3] ∧ RAt W gp [x1, y1, z1, t1] ∧ RAt W a152_0 [xx] ∧ RAt W a152_1 [yy] ∧ RAt W a212_0 [one] ∧ RAt W a212_1 [x] ∧ RAt W g8 [y] ∧ RAt W g9 [ox] ∧ RAt W a278_0 [oy] ∧ y277.heap.size ≤ a278_0 ∧ Keeps (· = g) w W ∧ a' = ⟨#[.pointer (some ⟨g, 0, none⟩), .pointer (some ⟨gp, 0, none⟩), undef, undef, .pointer (some ⟨a152_0, 0, none⟩), .pointer (some ⟨a152_1, 0, none⟩), .pointer (some ⟨a212_0, 0, none⟩), .pointer (some ⟨a212_1, 0, none⟩), .pointer (some ⟨g8, 0, none⟩), .pointer (some ⟨g9, 0, none⟩), .pointer (some ⟨a278_0, 0, none⟩), .pointer (some ⟨gp, 0, none⟩), .pointer (some ⟨gp, 0, none⟩), .pointer (some ⟨gp, 0, none⟩), vN x1, .pointer (some ⟨gp, 0, none⟩), .pointer (some ⟨gp, 0, none⟩), .pointer (some ⟨gp, 0, none⟩), vN x1, vN xx, .pointer (some ⟨gp, 0, none⟩), .pointer (some ⟨gp, 0, none⟩), .pointer (some ⟨gp, 32, none⟩), vN y1, .pointer (some ⟨gp, 0, none⟩), .pointer (some ⟨gp, 0, none⟩), .pointer (some ⟨gp, 32, none⟩), vN y1, vN yy, .pointer (some ⟨gp, 0, none⟩), .pointer (some ⟨gp, 0, none⟩), .pointer (some ⟨gp, 64, none⟩), vN z1, .pointer (some ⟨gp, 0, none⟩), .pointer (some ⟨gp, 0, none⟩), .pointer (some ⟨gp, 64, none⟩), vN z1, vN one, .pointer (some ⟨gp, 0, none⟩), .pointer (some ⟨gp, 0, none⟩), .pointer (some ⟨gp, 0, none⟩), vN x1, .pointer (some ⟨gp, 0, none⟩), .pointer (some ⟨gp, 0, none⟩), .pointer (some ⟨gp, 32, none⟩), vN y1, vN xy, vN xy, vN xy, vN x, vN yy, vN xx, vN y, vN yy, vN xx, vN ox, vN one, vN one, vN two, vN ox, vN oy, undef, undef], []⟩) ?_ ?_
  · refine startW (fun j => j == 6) (y277.heap.size) (by kernel_rfl) ?_
    obtain ⟨D278, hD278⟩ : ∃ D, D = y277.drew := ⟨_, rfl⟩
    rw [← hD278]
    have HL_278 := dLq hD278
    have RG_278 := dRq hD278 RG_277
    have RX_278 := dRq hD278 RX_277
    have Na152_0_278 := dRq hD278 Na152_0_277
    have Na152_1_278 := dRq hD278 Na152_1_277
    have Na212_0_278 := dRq hD278 Na212_0_277
    have Na212_1_278 := dRq hD278 Na212_1_277
    have Ng8_278 := dRq hD278 Ng8_277
    have Ng9_278 := dRq hD278 Ng9_277
    have HF_278 := dFq hD278 HF_277
    clear hD278 RG_277 RX_277 Na152_0_277 Na152_1_277 Na212_0_277 Na212_1_277 Ng8_277 Ng9_277 HF_277
    refine takeT (i := 0) (oi := oED44) (vN one) rfl (by kernel_rfl) (by kernel_rfl) (by kernel_rfl) (by kernel_rfl) (by kernel_rfl) (fun _ _ _ h => nomatch h.1) (by rfl) (fun w' hk => exec_loadF (.tmp 6) rfl (a212_0) 0 0 rfl [one] one rfl (Na212_0_278.out.below hk HLT278_4.out) rfl) ?_
    simp only [oED44, Act.put, zA, zB, zC]
    refine takeT (i := 1) (oi := oED45) (vN one) rfl (by kernel_rfl) (by kernel_rfl) (by kernel_rfl) (by kernel_rfl) (by kernel_rfl) (fun _ _ _ h => nomatch h.1) (by rfl) (fun w' hk => exec_loadF (.tmp 6) rfl (a212_0) 0 0 rfl [one] one rfl (Na212_0_278.out.below hk HLT278_4.out) rfl) ?_
    simp only [oED45, Act.put, zA, zB, zC]
    refine takeT (i := 3) (oi := oED46) (vN ox) rfl (by kernel_rfl) (by kernel_rfl) (by kernel_rfl) (by kernel_rfl) (by kernel_rfl) (fun _ _ _ h => nomatch h.1) (by rfl) (fun w' hk => exec_loadF (.tmp 9) rfl (g9) 0 0 rfl [ox] ox rfl (Ng9_278.out.below hk HLT278_7.out) rfl) ?_
    simp only [oED46, Act.put, zA, zB, zC]
    refine eachW [2, 5] (by kernel_rfl) (by simp) ?_
    intro k hk
    simp only [zM, zN, or_false] at hk
    rcases hk with rfl | rfl
    · refine wpOp_call (i := 2) (oi := oED47) rfl (by rfl) (exec_callL 19 [.tmp 56, .tmp 57] #[23, 23] rfl [vN one, vN one] rfl (CG19 _)) ((C7.out D278).mono ?_)
      rintro e279 W279 ⟨rfl, hb279⟩
      refine ⟨_, rfl, fun _ => hb279.mono HL_278.out, ?_⟩
      have RG_279 := hKq RG_278 hb279
      have RX_279 := hKq RX_278 hb279
      have Na152_0_279 := hKq Na152_0_278 hb279
      have Na152_1_279 := hKq Na152_1_278 hb279
      have Na212_0_279 := hKq Na212_0_278 hb279
      have Na212_1_279 := hKq Na212_1_278 hb279
      have Ng8_279 := hKq Ng8_278 hb279
      have Ng9_279 := hKq Ng9_278 hb279
      have HF_279 := fCq HF_278 hb279
      have HL_279 := lT HL_278 hb279
      clear hb279 HL_278 RG_278 RX_278 Na152_0_278 Na152_1_278 Na212_0_278 Na212_1_278 Ng8_278 Ng9_278 HF_278
      simp only [oED47, Act.put, zA, zB, zC]
      refine eachW [4, 5] (by kernel_rfl) (by simp) ?_
      intro k hk
      simp only [zM, zN, or_false] at hk
      rcases hk with rfl | rfl
      · refine wpOp_call (i := 4) (oi := oED48) rfl (by rfl) (exec_callL 21 [.tmp 58, .tmp 59] #[23, 23] rfl [vN two, vN ox] rfl (CG21 _)) ((C8.out W279).mono ?_)
        rintro e280 W280 ⟨rfl, hb280⟩
        refine ⟨_, rfl, fun _ => hb280.mono HL_279.out, ?_⟩
        have RG_280 := hKq RG_279 hb280
        have RX_280 := hKq RX_279 hb280
        have Na152_0_280 := hKq Na152_0_279 hb280
        have Na152_1_280 := hKq Na152_1_279 hb280
        have Na212_0_280 := hKq Na212_0_279 hb280
        have Na212_1_280 := hKq Na212_1_279 hb280
        have Ng8_280 := hKq Ng8_279 hb280
        have Ng9_280 := hKq Ng9_279 hb280
        have HF_280 := fCq HF_279 hb280
        have HL_280 := lT HL_279 hb280
        clear hb280 HL_279 RG_279 RX_279 Na152_0_279 Na152_1_279 Na212_0_279 Na212_1_279 Ng8_279 Ng9_279 HF_279
        simp only [oED48, Act.put, zA, zB, zC]
        refine opW _ _ (i := 5) (oi := oED49) rfl (by kernel_rfl) (by rfl) (exec_alloc 23 rfl (.agg (zbs 32)) zero23 W280) (fun _ => (below_alloc W280 _).mono HL_280.out) ?_
        obtain ⟨W281, hW281, hb281, hz281⟩ := alloc_zero W280
        rw [← hW281]
        obtain ⟨g281, hg281⟩ : ∃ g, g = W280.heap.size := ⟨_, rfl⟩
        rw [← hg281] at hz281 ⊢
        have HG281 := gE hg281 HL_280
        have HX281_27 := nXq RG_280 hg281
        have HX281_28 := nXq RX_280 hg281
        have HX281_29 := nXq Na152_0_280 hg281
        have HX281_30 := nXq Na152_1_280 hg281
        have HX281_31 := nXq Na212_0_280 hg281
        have HX281_32 := nXq Na212_1_280 hg281
        have HX281_33 := nXq Ng8_280 hg281
        have HX281_34 := nXq Ng9_280 hg281
        have RG_281 := hKq RG_280 hb281
        have RX_281 := hKq RX_280 hb281
        have Na152_0_281 := hKq Na152_0_280 hb281
        have Na152_1_281 := hKq Na152_1_280 hb281
        have Na212_0_281 := hKq Na212_0_280 hb281
        have Na212_1_281 := hKq Na212_1_280 hb281
        have Ng8_281 := hKq Ng8_280 hb281
        have Ng9_281 := hKq Ng9_280 hb281
        have HF_281 := fCq HF_280 hb281
        have HL_281 := lT HL_280 hb281
        have RZ281_281 := zrq hz281
        clear hb281 hz281 hg281 hW281 HL_280 RG_280 RX_280 Na152_0_280 Na152_1_280 Na212_0_280 Na212_1_280 Ng8_280 Ng9_280 HF_280
        simp only [oED49, Act.put, zA, zB, zC]
        refine storeW_F (i := 6) (oi := oED50) rfl (by kernel_rfl) (by rfl) (.tmp 10) (.tmp 60) rfl (g281) 0 0 rfl [0] oy rfl rfl RZ281_281.out (show 0 < 1 by omega) rfl ?_
        intro W282 hr282 hg282 hz282
        simp only [oED50, Act.put, zA, zB, zC]
        have RG_282 := hGq RG_281 hg282 HX281_27
        have RX_282 := hGq RX_281 hg282 HX281_28
        have Na152_0_282 := hGq Na152_0_281 hg282 HX281_29
        have Na152_1_282 := hGq Na152_1_281 hg282 HX281_30
        have Na212_0_282 := hGq Na212_0_281 hg282 HX281_31
        have Na212_1_282 := hGq Na212_1_281 hg282 HX281_32
        have Ng8_282 := hGq Ng8_281 hg282 HX281_33
        have Ng9_282 := hGq Ng9_281 hg282 HX281_34
        have RZ281_282 : Hid (RAt W282 g281 [oy]) := Lib.hid hr282
        have HF_282 := fNq HF_281 hg282 HG281 HLO278
        have HL_282 := lG HL_281 hg282
        clear hr282 hg282 hz282 HL_281 RG_281 RX_281 Na152_0_281 Na152_1_281 Na212_0_281 Na212_1_281 Ng8_281 Ng9_281 RZ281_281 HF_281
        refine doneW (by kernel_rfl) ⟨rfl, ?_⟩ _
        exact ⟨g281, RG_282.out, RX_282.out, Na152_0_282.out, Na152_1_282.out, Na212_0_282.out, Na212_1_282.out, Ng8_282.out, Ng9_282.out, RZ281_282.out, HG281.out, HF_282.out, rfl⟩
      · refine wpOp_value (i := 5) (oi := oED49) rfl (by rfl) (exec_alloc 23 rfl (.agg (zbs 32)) zero23 W279) ⟨fun _ => (below_alloc W279 _).mono HL_279.out, ?_⟩
        obtain ⟨W283, hW283, hb283, hz283⟩ := alloc_zero W279
        rw [← hW283]
        obtain ⟨g283, hg283⟩ : ∃ g, g = W279.heap.size := ⟨_, rfl⟩
        rw [← hg283] at hz283 ⊢
        have HG283 := gE hg283 HL_279
        have HX283_27 := nXq RG_279 hg283
        have HX283_28 := nXq RX_279 hg283
        have HX283_29 := nXq Na152_0_279 hg283
        have HX283_30 := nXq Na152_1_279 hg283
        have HX283_31 := nXq Na212_0_279 hg283
        have HX283_32 := nXq Na212_1_279 hg283
        have HX283_33 := nXq Ng8_279 hg283
        have HX283_34 := nXq Ng9_279 hg283
        have RG_283 := hKq RG_279 hb283
        have RX_283 := hKq RX_279 hb283
        have Na152_0_283 := hKq Na152_0_279 hb283
        have Na152_1_283 := hKq Na152_1_279 hb283
        have Na212_0_283 := hKq Na212_0_279 hb283
        have Na212_1_283 := hKq Na212_1_279 hb283
        have Ng8_283 := hKq Ng8_279 hb283
        have Ng9_283 := hKq Ng9_279 hb283
        have HF_283 := fCq HF_279 hb283
        have HL_283 := lT HL_279 hb283
        have RZ283_283 := zrq hz283
        clear hb283 hz283 hg283 hW283 HL_279 RG_279 RX_279 Na152_0_279 Na152_1_279 Na212_0_279 Na212_1_279 Ng8_279 Ng9_279 HF_279
        simp only [oED49, Act.put, zA, zB, zC]
        refine callW (i := 4) (oi := oED48) rfl (by kernel_rfl) (by rfl) (exec_callL 21 [.tmp 58, .tmp 59] #[23, 23] rfl [vN two, vN ox] rfl (CG21 _)) ((C8.out W283).mono ?_)
        rintro e284 W284 ⟨rfl, hb284⟩
        refine ⟨_, rfl, fun _ => hb284.mono HL_283.out, ?_⟩
        have RG_284 := hKq RG_283 hb284
        have RX_284 := hKq RX_283 hb284
        have Na152_0_284 := hKq Na152_0_283 hb284
        have Na152_1_284 := hKq Na152_1_283 hb284
        have Na212_0_284 := hKq Na212_0_283 hb284
        have Na212_1_284 := hKq Na212_1_283 hb284
        have Ng8_284 := hKq Ng8_283 hb284
        have Ng9_284 := hKq Ng9_283 hb284
        have RZ283_284 := hKq RZ283_283 hb284
        have HF_284 := fCq HF_283 hb284
        have HL_284 := lT HL_283 hb284
        clear hb284 HL_283 RG_283 RX_283 Na152_0_283 Na152_1_283 Na212_0_283 Na212_1_283 Ng8_283 Ng9_283 RZ283_283 HF_283
        simp only [oED48, Act.put, zA, zB, zC]
        refine storeW_F (i := 6) (oi := oED50) rfl (by kernel_rfl) (by rfl) (.tmp 10) (.tmp 60) rfl (g283) 0 0 rfl [0] oy rfl rfl RZ283_284.out (show 0 < 1 by omega) rfl ?_
        intro W285 hr285 hg285 hz285
        simp only [oED50, Act.put, zA, zB, zC]
        have RG_285 := hGq RG_284 hg285 HX283_27
        have RX_285 := hGq RX_284 hg285 HX283_28
        have Na152_0_285 := hGq Na152_0_284 hg285 HX283_29
        have Na152_1_285 := hGq Na152_1_284 hg285 HX283_30
        have Na212_0_285 := hGq Na212_0_284 hg285 HX283_31
        have Na212_1_285 := hGq Na212_1_284 hg285 HX283_32
        have Ng8_285 := hGq Ng8_284 hg285 HX283_33
        have Ng9_285 := hGq Ng9_284 hg285 HX283_34
        have RZ283_285 : Hid (RAt W285 g283 [oy]) := Lib.hid hr285
        have HF_285 := fNq HF_284 hg285 HG283 HLO278
        have HL_285 := lG HL_284 hg285
        clear hr285 hg285 hz285 HL_284 RG_284 RX_284 Na152_0_284 Na152_1_284 Na212_0_284 Na212_1_284 Ng8_284 Ng9_284 RZ283_284 HF_284
        refine doneW (by kernel_rfl) ⟨rfl, ?_⟩ _
        exact ⟨g283, RG_285.out, RX_285.out, Na152_0_285.out, Na152_1_285.out, Na212_0_285.out, Na212_1_285.out, Ng8_285.out, Ng9_285.out, RZ283_285.out, HG283.out, HF_285.out, rfl⟩
    · refine wpOp_value (i := 5) (oi := oED49) rfl (by rfl) (exec_alloc 23 rfl (.agg (zbs 32)) zero23 D278) ⟨fun _ => (below_alloc D278 _).mono HL_278.out, ?_⟩
      obtain ⟨W286, hW286, hb286, hz286⟩ := alloc_zero D278
      rw [← hW286]
      obtain ⟨g286, hg286⟩ : ∃ g, g = D278.heap.size := ⟨_, rfl⟩
      rw [← hg286] at hz286 ⊢
      have HG286 := gE hg286 HL_278
      have HX286_27 := nXq RG_278 hg286
      have HX286_28 := nXq RX_278 hg286
      have HX286_29 := nXq Na152_0_278 hg286
      have HX286_30 := nXq Na152_1_278 hg286
      have HX286_31 := nXq Na212_0_278 hg286
      have HX286_32 := nXq Na212_1_278 hg286
      have HX286_33 := nXq Ng8_278 hg286
      have HX286_34 := nXq Ng9_278 hg286
      have RG_286 := hKq RG_278 hb286
      have RX_286 := hKq RX_278 hb286
      have Na152_0_286 := hKq Na152_0_278 hb286
      have Na152_1_286 := hKq Na152_1_278 hb286
      have Na212_0_286 := hKq Na212_0_278 hb286
      have Na212_1_286 := hKq Na212_1_278 hb286
      have Ng8_286 := hKq Ng8_278 hb286
      have Ng9_286 := hKq Ng9_278 hb286
      have HF_286 := fCq HF_278 hb286
      have HL_286 := lT HL_278 hb286
      have RZ286_286 := zrq hz286
      clear hb286 hz286 hg286 hW286 HL_278 RG_278 RX_278 Na152_0_278 Na152_1_278 Na212_0_278 Na212_1_278 Ng8_278 Ng9_278 HF_278
      simp only [oED49, Act.put, zA, zB, zC]
      refine callW (i := 2) (oi := oED47) rfl (by kernel_rfl) (by rfl) (exec_callL 19 [.tmp 56, .tmp 57] #[23, 23] rfl [vN one, vN one] rfl (CG19 _)) ((C7.out W286).mono ?_)
      rintro e287 W287 ⟨rfl, hb287⟩
      refine ⟨_, rfl, fun _ => hb287.mono HL_286.out, ?_⟩
      have RG_287 := hKq RG_286 hb287
      have RX_287 := hKq RX_286 hb287
      have Na152_0_287 := hKq Na152_0_286 hb287
      have Na152_1_287 := hKq Na152_1_286 hb287
      have Na212_0_287 := hKq Na212_0_286 hb287
      have Na212_1_287 := hKq Na212_1_286 hb287
      have Ng8_287 := hKq Ng8_286 hb287
      have Ng9_287 := hKq Ng9_286 hb287
      have RZ286_287 := hKq RZ286_286 hb287
      have HF_287 := fCq HF_286 hb287
      have HL_287 := lT HL_286 hb287
      clear hb287 HL_286 RG_286 RX_286 Na152_0_286 Na152_1_286 Na212_0_286 Na212_1_286 Ng8_286 Ng9_286 RZ286_286 HF_286
      simp only [oED47, Act.put, zA, zB, zC]
      refine callW (i := 4) (oi := oED48) rfl (by kernel_rfl) (by rfl) (exec_callL 21 [.tmp 58, .tmp 59] #[23, 23] rfl [vN two, vN ox] rfl (CG21 _)) ((C8.out W287).mono ?_)
      rintro e288 W288 ⟨rfl, hb288⟩
      refine ⟨_, rfl, fun _ => hb288.mono HL_287.out, ?_⟩
      have RG_288 := hKq RG_287 hb288
      have RX_288 := hKq RX_287 hb288
      have Na152_0_288 := hKq Na152_0_287 hb288
      have Na152_1_288 := hKq Na152_1_287 hb288
      have Na212_0_288 := hKq Na212_0_287 hb288
      have Na212_1_288 := hKq Na212_1_287 hb288
      have Ng8_288 := hKq Ng8_287 hb288
      have Ng9_288 := hKq Ng9_287 hb288
      have RZ286_288 := hKq RZ286_287 hb288
      have HF_288 := fCq HF_287 hb288
      have HL_288 := lT HL_287 hb288
      clear hb288 HL_287 RG_287 RX_287 Na152_0_287 Na152_1_287 Na212_0_287 Na212_1_287 Ng8_287 Ng9_287 RZ286_287 HF_287
      simp only [oED48, Act.put, zA, zB, zC]
      refine storeW_F (i := 6) (oi := oED50) rfl (by kernel_rfl) (by rfl) (.tmp 10) (.tmp 60) rfl (g286) 0 0 rfl [0] oy rfl rfl RZ286_288.out (show 0 < 1 by omega) rfl ?_
      intro W289 hr289 hg289 hz289
      simp only [oED50, Act.put, zA, zB, zC]
      have RG_289 := hGq RG_288 hg289 HX286_27
      have RX_289 := hGq RX_288 hg289 HX286_28
      have Na152_0_289 := hGq Na152_0_288 hg289 HX286_29
      have Na152_1_289 := hGq Na152_1_288 hg289 HX286_30
      have Na212_0_289 := hGq Na212_0_288 hg289 HX286_31
      have Na212_1_289 := hGq Na212_1_288 hg289 HX286_32
      have Ng8_289 := hGq Ng8_288 hg289 HX286_33
      have Ng9_289 := hGq Ng9_288 hg289 HX286_34
      have RZ286_289 : Hid (RAt W289 g286 [oy]) := Lib.hid hr289
      have HF_289 := fNq HF_288 hg289 HG286 HLO278
      have HL_289 := lG HL_288 hg289
      clear hr289 hg289 hz289 HL_288 RG_288 RX_288 Na152_0_288 Na152_1_288 Na212_0_288 Na212_1_288 Ng8_288 Ng9_288 RZ286_288 HF_288
      refine doneW (by kernel_rfl) ⟨rfl, ?_⟩ _
      exact ⟨g286, RG_289.out, RX_289.out, Na152_0_289.out, Na152_1_289.out, Na212_0_289.out, Na212_1_289.out, Ng8_289.out, Ng9_289.out, RZ286_289.out, HG286.out, HF_289.out, rfl⟩
  rintro a' v290 ⟨a278_0, h0, h1, h2, h3, h4, h5, h6, h7, h8, k0, hF, rfl⟩
  have RG_290 := Lib.hid h0
  have RX_290 := Lib.hid h1
  have Na152_0_290 := Lib.hid h2
  have Na152_1_290 := Lib.hid h3
  have Na212_0_290 := Lib.hid h4
  have Na212_1_290 := Lib.hid h5
  have Ng8_290 := Lib.hid h6
  have Ng9_290 := Lib.hid h7
  have Na278_0_290 := Lib.hid h8
  have HNE290_27 : Hid (g ≠ a278_0) := Lib.hid (by have := HLT278_0.out; omega)
  have HNE290_28 : Hid (gp ≠ a278_0) := Lib.hid (by have := HLT278_1.out; omega)
  have HNE290_29 : Hid (a152_0 ≠ a278_0) := Lib.hid (by have := HLT278_2.out; omega)
  have HNE290_30 : Hid (a152_1 ≠ a278_0) := Lib.hid (by have := HLT278_3.out; omega)
  have HNE290_31 : Hid (a212_0 ≠ a278_0) := Lib.hid (by have := HLT278_4.out; omega)
  have HNE290_32 : Hid (a212_1 ≠ a278_0) := Lib.hid (by have := HLT278_5.out; omega)
  have HNE290_33 : Hid (g8 ≠ a278_0) := Lib.hid (by have := HLT278_6.out; omega)
  have HNE290_34 : Hid (g9 ≠ a278_0) := Lib.hid (by have := HLT278_7.out; omega)
  have HGE290_0 : Hid (w.heap.size ≤ a278_0) := Lib.hid (by have := HLO278.out; omega)
  have HF_290 := Lib.hid hF
  clear h0 h1 h2 h3 h4 h5 h6 h7 h8 k0 hF HLT278_0 HLT278_1 HLT278_2 HLT278_3 HLT278_4 HLT278_5 HLT278_6 HLT278_7 HLO278 RG_277 RX_277 Na152_0_277 Na152_1_277 Na212_0_277 Na212_1_277 Ng8_277 Ng9_277 HF_277
  go_wp2_with fail
  refine (HD.out _ _ _ _ _ RG_290.out Na212_1_290.out Ng9_290.out Ng8_290.out Na278_0_290.out HNE271_9.out HNE277_20.out HNE275_14.out HNE290_27.out).mono ?_
  rintro e we ⟨rfl, hr, hk⟩
  have HKE := Lib.hid (HF_290.out.trans hk)
  have HRE := Lib.hid hr
  clear hr hk RG_290 RX_290 Na152_0_290 Na152_1_290 Na212_0_290 Na212_1_290 Ng8_290 Ng9_290 Na278_0_290 HF_290
  go_wp2_with fail
  refine bodyPost_end (results_none rfl _ _ _) rfl ?_
  exact ⟨rfl, HRE.out, HKE.out⟩
end Go.Proofs.Ytgdimnbdnepbgaa
/- Bytes, bits and numbers. No statement is proved here. -/
namespace Go.Proofs.Ytgdimnbdnepbgaa
open Go.RowKit
set_option linter.unusedVariables false
set_option maxRecDepth 40000
set_option linter.unusedSimpArgs false

/-- Bit i of a number's bytes. -/
def bitL (l : List UInt8) (i : Nat) : Nat := (l.getD (i / 8) 0).toNat / 2 ^ (i % 8) % 2
/-- The number of bytes, the low one first. -/
def leb : List UInt8 → Nat
  | [] => 0
  | b :: t => b.toNat + 256 * leb t
theorem leb_bit : ∀ (l : List UInt8) (n : Nat), leb l / 2 ^ n % 2 = bitL l n
  | [], n => by simp [leb, bitL]
  | b :: t, n => by
    by_cases h : n < 8
    · unfold bitL leb
      rw [Nat.div_eq_of_lt h, Nat.mod_eq_of_lt h, List.getD_cons_zero]
      have hn : n = 0 ∨ n = 1 ∨ n = 2 ∨ n = 3 ∨ n = 4 ∨ n = 5 ∨ n = 6 ∨ n = 7 := by omega
      rcases hn with rfl | rfl | rfl | rfl | rfl | rfl | rfl | rfl <;> omega
    · obtain ⟨k, rfl⟩ : ∃ k, n = 8 + k := ⟨n - 8, by omega⟩
      have ih := leb_bit t k
      unfold bitL at ih ⊢
      unfold leb
      rw [show (8 + k) / 8 = k / 8 + 1 from by omega, show (8 + k) % 8 = k % 8 from by omega, List.getD_cons_succ, ← ih, Nat.pow_add, ← Nat.div_div_eq_div_mul]
      have hb := UInt8.toNat_lt b
      rw [show (b.toNat + 256 * leb t) / 2 ^ 8 = leb t from by omega]
theorem nv_leb (l : List UInt8) (h : l.length = 32) : nv l = leb l := by
  obtain ⟨x0, x1, x2, x3, x4, x5, x6, x7, x8, x9, x10, x11, x12, x13, x14, x15, x16, x17, x18, x19, x20, x21, x22, x23, x24, x25, x26, x27, x28, x29, x30, x31, rfl⟩ : ∃ x0 x1 x2 x3 x4 x5 x6 x7 x8 x9 x10 x11 x12 x13 x14 x15 x16 x17 x18 x19 x20 x21 x22 x23 x24 x25 x26 x27 x28 x29 x30 x31, l = [x0, x1, x2, x3, x4, x5, x6, x7, x8, x9, x10, x11, x12, x13, x14, x15, x16, x17, x18, x19, x20, x21, x22, x23, x24, x25, x26, x27, x28, x29, x30, x31] := by
    match l, h with
    | [x0, x1, x2, x3, x4, x5, x6, x7, x8, x9, x10, x11, x12, x13, x14, x15, x16, x17, x18, x19, x20, x21, x22, x23, x24, x25, x26, x27, x28, x29, x30, x31], _ => exact ⟨_, _, _, _, _, _, _, _, _, _, _, _, _, _, _, _, _, _, _, _, _, _, _, _, _, _, _, _, _, _, _, _, rfl⟩
  simp only [nv, q8, num8, bt, leb, List.getD_cons_zero, List.getD_cons_succ, Nat.reduceAdd]
  omega
theorem bit_step (l : List UInt8) (h : l.length = 32) (n : Nat) : nv l / 2 ^ n = 2 * (nv l / 2 ^ (n + 1)) + bitL l n := by
  rw [nv_leb l h, ← leb_bit, Nat.pow_succ, ← Nat.div_div_eq_div_mul]
  omega
theorem bit_int (l : List UInt8) (k : Nat) : ((((l[k / 8]?.getD 0).toNat : Nat) : Int) / 2 ^ (k % 8)).tmod 2 = ((bitL l k : Nat) : Int) := by
  unfold bitL
  rw [List.getD_eq_getElem?_getD, show ((2 : Int) ^ (k % 8)) = ((2 ^ (k % 8) : Nat) : Int) from by simp, ← Int.natCast_ediv]
  rfl
theorem bitL_lt (l : List UInt8) (k : Nat) : bitL l k < 2 := Nat.mod_lt _ (by decide)
theorem leb_lt : ∀ l : List UInt8, leb l < 256 ^ l.length
  | [] => by simp [leb]
  | b :: t => by
    have ih := leb_lt t
    have hb := UInt8.toNat_lt b
    simp only [leb, List.length_cons, Nat.pow_succ]
    omega
theorem leb_byte : ∀ (l : List UInt8) (j : Nat), leb l / 256 ^ j % 256 = (l.getD j 0).toNat
  | [], j => by simp [leb]
  | b :: t, 0 => by
    have hb := UInt8.toNat_lt b
    simp only [leb, Nat.pow_zero, Nat.div_one, List.getD_cons_zero]
    omega
  | b :: t, j + 1 => by
    have ih := leb_byte t j
    have hb := UInt8.toNat_lt b
    rw [List.getD_cons_succ, ← ih, Nat.pow_succ, Nat.mul_comm, ← Nat.div_div_eq_div_mul]
    simp only [leb]
    rw [show (b.toNat + 256 * leb t) / 256 = leb t from by omega]
theorem leb_set : ∀ (l : List UInt8) (j : Nat) (b : UInt8), j < l.length → leb (l.set j b) + 256 ^ j * (l.getD j 0).toNat = leb l + 256 ^ j * b.toNat
  | [], j, b, h => absurd h (by simp)
  | c :: t, 0, b, h => by
    simp only [leb, List.set_cons_zero, List.getD_cons_zero, Nat.pow_zero]
    omega
  | c :: t, j + 1, b, h => by
    have ih := leb_set t j b (by simpa using h)
    simp only [leb, List.set_cons_succ, List.getD_cons_succ]
    rw [Nat.pow_succ, Nat.mul_comm (256 ^ j) 256, Nat.mul_assoc, Nat.mul_assoc]
    omega
theorem leb_inj (l : List UInt8) (h : l.length = 32) : l = enc (leb l) := by
  rw [← nv_leb l h, enc_nv l h]
theorem bytes_eq (l : List UInt8) (u : Nat) (hu : u < TT) (hl : l.length = 32) (h : ∀ j, j < 32 → (l.getD j 0).toNat = u / 256 ^ j % 256) : l = enc u := by
  have hv : leb (enc u) = u := by rw [← nv_leb _ (enc_len u)]; exact nv_enc u hu
  apply List.ext_getElem
  · rw [hl, enc_len]
  · intro i h1 h2
    have e1 : l.getD i 0 = l[i] := by rw [List.getD_eq_getElem?_getD, List.getElem?_eq_getElem h1]; rfl
    have e2 : (enc u).getD i 0 = (enc u)[i] := by rw [List.getD_eq_getElem?_getD, List.getElem?_eq_getElem h2]; rfl
    apply UInt8.toNat_inj.1
    rw [← e1, ← e2, h i (by omega), ← leb_byte, hv]
theorem enc_byte (u : Nat) (hu : u < TT) (j : Nat) : ((enc u).getD j 0).toNat = u / 256 ^ j % 256 := by
  rw [← leb_byte, ← nv_leb _ (enc_len u), nv_enc u hu]
theorem getD_set_eq8 (l : List UInt8) (i : Nat) (b : UInt8) (h : i < l.length) : (l.set i b).getD i 0 = b := by
  rw [List.getD_eq_getElem?_getD, List.getElem?_set_self h]; rfl
theorem getD_set_ne8 (l : List UInt8) (i j : Nat) (b : UInt8) (h : i ≠ j) : (l.set i b).getD j 0 = l.getD j 0 := by
  rw [List.getD_eq_getElem?_getD, List.getElem?_set_ne h, ← List.getD_eq_getElem?_getD]

end Go.Proofs.Ytgdimnbdnepbgaa
/- Bits of numbers, the highest one; doubling; multiples. No statement is proved here. -/
namespace Go.Proofs.Ytgdimnbdnepbgaa
open Go.RowKit
set_option linter.unusedVariables false
set_option maxRecDepth 40000
set_option linter.unusedSimpArgs false

set_option maxHeartbeats 2000000 in
theorem Bit_core (a i c : Nat) (b : Bool) (hi : i < 256) (w : World) (HC : Hid (((enc a).getD (i / 8) 0).toNat = c)) (HB : Hid ((bits .and .u8 ((c : Int) / 2 ^ (i % 8)) 1 == 1) = b)) :
    Calls Try.prog 103 #[vN a, .int .i64 i] w (Gives (.bool b) w) := by
  have hii : (i : Int) < 256 := by omega
  go_enter Try.func103, Try.ntmps103
  go_wp2_with (first | ((with_reducible show wpList _ _ _ (⟨some 2, .box 23 (.tmp 0), _, _, _, _⟩ :: _) _ _); go_must (refine wpList_box_row rfl 23 (.tmp 0) rfl (bcs (enc a)).toArray rfl ?_; intro a1 h1 z1 g1; have HF : Hid (Below w.heap.size w a1) := below_of_grownBy g1; have c0 : a1.cell? ⟨w.heap.size, i / 8, none⟩ = some (.int .u8 (((enc a).getD (i / 8) 0).toNat : Nat)) := (show BAt a1 w.heap.size (enc a) from ⟨enc_len a, 23, h1⟩).cell (i / 8) (by omega); rw [HC.out] at c0; clear h1 z1 g1)) | fail)
  go_ret
  refine ⟨?_, HF.out⟩
  exact congrArg (fun x => Ending.returned (.bool x)) HB.out
theorem bit_num (a i : Nat) : a / 256 ^ (i / 8) % 256 / 2 ^ (i % 8) % 2 = a / 2 ^ i % 2 := by
  have e : 2 ^ i = 256 ^ (i / 8) * 2 ^ (i % 8) := by rw [show (256 : Nat) = 2 ^ 8 from rfl, ← Nat.pow_mul, ← Nat.pow_add]; congr 1; omega
  rw [e, ← Nat.div_div_eq_div_mul]
  generalize a / 256 ^ (i / 8) = z
  have h8 : i % 8 = 0 ∨ i % 8 = 1 ∨ i % 8 = 2 ∨ i % 8 = 3 ∨ i % 8 = 4 ∨ i % 8 = 5 ∨ i % 8 = 6 ∨ i % 8 = 7 := by omega
  rcases h8 with h | h | h | h | h | h | h | h <;> rw [h] <;> omega
theorem Bit_any (a i : Nat) (ha : a < TT) (hi : i < 256) (w : World) : Calls Try.prog 103 #[vN a, .int .i64 i] w (Gives (.bool (decide (a / 2 ^ i % 2 = 1))) w) := by
  refine Bit_core a i _ _ hi w (Lib.hid (enc_byte a ha (i / 8))) (Lib.hid ?_)
  have hc : a / 256 ^ (i / 8) % 256 / 2 ^ (i % 8) < 256 := Nat.lt_of_le_of_lt (Nat.div_le_self _ _) (Nat.mod_lt _ (by decide))
  rw [← bit_num, show ((2 : Int) ^ (i % 8)) = ((2 ^ (i % 8) : Nat) : Int) from by simp, ← Int.natCast_ediv]
  exact and_one _ hc
/-- The place above the highest bit of a and b. -/
def Top (a b j : Nat) : Prop := j ≤ 256 ∧ a / 2 ^ j = 0 ∧ b / 2 ^ j = 0
set_option maxHeartbeats 2000000 in
theorem highest_core (a b g1 g2 : Nat) (w : World) (R1 : Hid (RAt w g1 [a])) (R2 : Hid (RAt w g2 [b])) (H0 : Hid (Top a b 256))
    (B1 : Hid (∀ i : Nat, i < 256 → ∀ w, Calls Try.prog 103 #[vN a, .int .i64 i] w (Gives (.bool (decide (a / 2 ^ i % 2 = 1))) w)))
    (B2 : Hid (∀ i : Nat, i < 256 → ∀ w, Calls Try.prog 103 #[vN b, .int .i64 i] w (Gives (.bool (decide (b / 2 ^ i % 2 = 1))) w))) :
    Calls Try.prog 101 #[.pointer (some ⟨g1, 0, none⟩), .pointer (some ⟨g2, 0, none⟩)] w (fun e w' => ∃ j, Top a b j ∧ e = .returned (.int .i64 ((j : Int) - 1)) ∧ Below w.heap.size w w') := by
  go_enter Try.func101, Try.ntmps101
  go_wp2_with fail
  go_loopw [5] (fun i wr => ∃ j : Nat, Top a b j ∧ i = .int .i64 ((j : Int) - 1) ∧ RAt wr g1 [a] ∧ RAt wr g2 [b] ∧ Below w.heap.size w wr) (fun i _ => ((intOf i) + 1).toNat)
  case atStart => exact ⟨256, H0.out, rfl, R1.out, R2.out, Below.refl _ _⟩
  case round =>
    obtain ⟨j, ht, rfl, hp, hq, hr⟩ := hrel
    have HT := Lib.hid ht
    have S1 := Lib.hid hp
    have S2 := Lib.hid hq
    have HF := Lib.hid hr
    clear ht hp hq hr R1 R2 H0
    have hj := HT.out.1
    by_cases h0 : j = 0
    · subst h0
      go_wp2_with fail
      go_ret
      exact ⟨0, HT.out, rfl, HF.out⟩
    · obtain ⟨i, rfl⟩ : ∃ i, j = i + 1 := ⟨j - 1, by omega⟩
      have HT2 : Hid (a / 2 ^ i % 2 = 0 → b / 2 ^ i % 2 = 0 → Top a b i) := Lib.hid fun e1 e2 => by
        obtain ⟨_, h1, h2⟩ := HT.out
        rw [Nat.pow_succ, ← Nat.div_div_eq_div_mul] at h1 h2
        exact ⟨by omega, by omega, by omega⟩
      have C1 := Lib.hid (B1.out i (by omega))
      have C2 := Lib.hid (B2.out i (by omega))
      rw [show ((i + 1 : Nat) : Int) - 1 = (i : Int) from by omega]
      have hii : (0 : Int) ≤ (i : Int) := by omega
      have hib : (i : Int) < 256 := by omega
      by_cases e1 : a / 2 ^ i % 2 = 1
      · rw [decide_eq_true e1] at C1
        go_wp2_with (first | ((with_reducible show wpList _ _ _ (⟨_, .load 23 (.tmp 10), _, _, _, _⟩ :: _) _ _); go_must (refine wpList_exec rfl (vN a) (exec_loadF (.tmp 10) rfl g1 0 0 rfl [a] a rfl S1.out rfl) ?_)) | fail)
        refine (C1.out _).mono ?_
        rintro e x1 ⟨rfl, hb⟩
        have HF2 := Lib.hid (HF.out.trans (hb.mono HF.out.size))
        clear hb HF
        go_wp2_with fail
        go_ret
        exact ⟨i + 1, HT.out, by rw [show ((i + 1 : Nat) : Int) - 1 = (i : Int) from by omega]; rfl, HF2.out⟩
      · rw [decide_eq_false e1] at C1
        go_wp2_with (first | ((with_reducible show wpList _ _ _ (⟨_, .load 23 (.tmp 10), _, _, _, _⟩ :: _) _ _); go_must (refine wpList_exec rfl (vN a) (exec_loadF (.tmp 10) rfl g1 0 0 rfl [a] a rfl S1.out rfl) ?_)) | fail)
        refine (C1.out _).mono ?_
        rintro e x1 ⟨rfl, hb⟩
        have HF2 := Lib.hid (HF.out.trans (hb.mono HF.out.size))
        have T1 := Lib.hid (S1.out.keep hb)
        have T2 := Lib.hid (S2.out.keep hb)
        clear hb HF S1 S2
        go_wp2_with (first | ((with_reducible show wpList _ _ _ (⟨_, .load 23 (.tmp 18), _, _, _, _⟩ :: _) _ _); go_must (refine wpList_exec rfl (vN b) (exec_loadF (.tmp 18) rfl g2 0 0 rfl [b] b rfl T2.out rfl) ?_)) | fail)
        by_cases e2 : b / 2 ^ i % 2 = 1
        · rw [decide_eq_true e2] at C2
          refine (C2.out _).mono ?_
          rintro e x2 ⟨rfl, hb⟩
          have HF3 := Lib.hid (HF2.out.trans (hb.mono HF2.out.size))
          clear hb HF2
          go_wp2_with fail
          go_ret
          exact ⟨i + 1, HT.out, by rw [show ((i + 1 : Nat) : Int) - 1 = (i : Int) from by omega]; rfl, HF3.out⟩
        · rw [decide_eq_false e2] at C2
          refine (C2.out _).mono ?_
          rintro e x2 ⟨rfl, hb⟩
          have HF3 := Lib.hid (HF2.out.trans (hb.mono HF2.out.size))
          have U1 := Lib.hid (T1.out.keep hb)
          have U2 := Lib.hid (T2.out.keep hb)
          clear hb HF2 T1 T2
          go_wp2_with fail
          refine ⟨⟨i, HT2.out (by omega) (by omega), by go_num, U1.out, U2.out, HF3.out⟩, by simp [intOf]⟩
end Go.Proofs.Ytgdimnbdnepbgaa
/- Multiples of points; doubling. No statement is proved here. -/
namespace Go.Proofs.Ytgdimnbdnepbgaa
open Go.RowKit
set_option linter.unusedVariables false
set_option maxRecDepth 40000
set_option linter.unusedSimpArgs false

namespace Ed
variable {n : Nat} [NeZero n]
def sm (E : Ed n) (p : E.Pt) : Nat → E.Pt
  | 0 => E.zero
  | k + 1 => E.add (E.sm p k) p
theorem sm_add (E : Ed n) (p : E.Pt) (a : Nat) : ∀ b, E.sm p (a + b) = E.add (E.sm p a) (E.sm p b)
  | 0 => (E.add_zero _).symm
  | b + 1 => by
    show E.add (E.sm p (a + b)) p = E.add (E.sm p a) (E.add (E.sm p b) p)
    rw [sm_add E p a b, E.add_assoc]
theorem sm_one (E : Ed n) (p : E.Pt) : E.sm p 1 = p := E.zero_add p
theorem sm_two (E : Ed n) (p : E.Pt) (a : Nat) : E.sm p (2 * a) = E.add (E.sm p a) (E.sm p a) := by rw [Nat.two_mul, E.sm_add]
theorem add4 (E : Ed n) (p q r s : E.Pt) : E.add (E.add p q) (E.add r s) = E.add (E.add p r) (E.add q s) := by
  rw [E.add_assoc, ← E.add_assoc q, E.add_comm q r, E.add_assoc r, ← E.add_assoc]
theorem sm_sum (E : Ed n) (p q : E.Pt) : ∀ a, E.sm (E.add p q) a = E.add (E.sm p a) (E.sm q a)
  | 0 => (E.add_zero _).symm
  | a + 1 => by
    show E.add (E.sm (E.add p q) a) (E.add p q) = E.add (E.add (E.sm p a) p) (E.add (E.sm q a) q)
    rw [sm_sum E p q a, E.add4]
theorem sm_zero (E : Ed n) : ∀ a, E.sm E.zero a = E.zero
  | 0 => rfl
  | a + 1 => by
    show E.add (E.sm E.zero a) E.zero = E.zero
    rw [sm_zero E a, E.add_zero]
theorem sm_mul (E : Ed n) (p : E.Pt) (a : Nat) : ∀ b, E.sm p (a * b) = E.sm (E.sm p a) b
  | 0 => rfl
  | b + 1 => by
    rw [Nat.mul_succ, E.sm_add, sm_mul E p a b]
    rfl
/-- a times p and b times q, without the low i bits. -/
def two (E : Ed n) (p q : E.Pt) (a b i : Nat) : E.Pt := E.add (E.sm p (a / 2 ^ i)) (E.sm q (b / 2 ^ i))
theorem two_step (E : Ed n) (p q : E.Pt) (a b i : Nat) : E.two p q a b i = E.add (E.add (E.two p q a b (i + 1)) (E.two p q a b (i + 1))) (E.add (E.sm p (a / 2 ^ i % 2)) (E.sm q (b / 2 ^ i % 2))) := by
  have e : ∀ x : Nat, x / 2 ^ i = 2 * (x / 2 ^ (i + 1)) + x / 2 ^ i % 2 := fun x => by
    rw [Nat.pow_succ, ← Nat.div_div_eq_div_mul]
    omega
  unfold two
  rw [E.add4 (E.sm p (a / 2 ^ (i + 1))), ← E.sm_two, ← E.sm_two, E.add4, ← E.sm_add, ← E.sm_add, ← e, ← e]
end Ed
def X4.dbl (p : X4) : X4 :=
  let xx := p.x * p.x
  let yy := p.y * p.y
  let one := p.z * p.z
  let x := p.x * p.y + p.x * p.y
  let y := yy + xx
  let ox := yy - xx
  let oy := one + one - ox
  ⟨x * oy, y * ox, ox * oy, x * y⟩
theorem edouble_any (p : X4) (r0 r1 r2 r3 : Nat) (w : World) (g gp : Nat) (h0 : RAt w g [r0, r1, r2, r3]) (hp : RAt w gp p.l) :
    Calls Try.prog 102 #[.pointer (some ⟨g, 0, none⟩), .pointer (some ⟨gp, 0, none⟩)] w (SetsR g p.dbl.l w) :=
  edouble_core g gp r0 r1 r2 r3 p.x.val p.y.val p.z.val p.t.val (p.x * p.x).val (p.y * p.y).val (p.z * p.z).val (p.x * p.y).val (p.x * p.y + p.x * p.y).val (p.y * p.y + p.x * p.x).val (p.y * p.y - p.x * p.x).val (p.z * p.z + p.z * p.z).val (p.z * p.z + p.z * p.z - (p.y * p.y - p.x * p.x)).val _ _ _ _ w
    (Lib.hid (fMul _ _)) (Lib.hid (fMul _ _)) (Lib.hid (fMul _ _)) (Lib.hid (fMul _ _)) (Lib.hid (fAdd _ _)) (Lib.hid (fAdd _ _)) (Lib.hid (fSub _ _)) (Lib.hid (fAdd _ _)) (Lib.hid (fSub _ _))
    (Lib.hid fun w g1 g2 g3 g4 h0 h1 h2 h3 h4 n1 n2 n3 n4 => divide_any _ _ _ _ r0 r1 r2 r3 w g g1 g2 g3 g4 h0 h1 h2 h3 h4 n1 n2 n3 n4) (Lib.hid h0) (Lib.hid hp)
theorem X4.Is.dbl {p : X4} {x1 y1 : Fin PP} (hp : p.Is x1 y1) (o1 : EC.On x1 y1) : p.dbl.Is (EC.sx x1 y1 x1 y1) (EC.sy x1 y1 x1 y1) := by
  obtain ⟨p0, p1, p2, p3⟩ := hp
  have e1 := EC.sx_eq o1 o1
  have e2 := EC.sy_eq o1 o1
  have d1 := EC.den1 o1 o1
  have d2 := EC.den2 o1 o1
  have hz : p.z * p.z ≠ 0 := EC.mul_ne p0 p0
  have hd : EC.d = dF := rfl
  unfold Ed.On at o1
  rw [hd] at e1 e2 d1 d2 o1
  generalize EC.sx x1 y1 x1 y1 = X at *
  generalize EC.sy x1 y1 x1 y1 = Y at *
  have k1 : p.y * p.y - p.x * p.x = p.z * p.z * (1 + dF * (x1 * y1 * (x1 * y1))) := by rw [p1, p2]; grind
  have k2 : p.z * p.z + p.z * p.z - p.z * p.z * (1 + dF * (x1 * y1 * (x1 * y1))) = p.z * p.z * (1 - dF * (x1 * y1 * (x1 * y1))) := by grind
  have k3 : p.x * p.y + p.x * p.y = p.z * p.z * (x1 * y1 + y1 * x1) := by rw [p1, p2]; grind
  have k4 : p.y * p.y + p.x * p.x = p.z * p.z * (y1 * y1 + x1 * x1) := by rw [p1, p2]; grind
  unfold X4.Is X4.dbl
  simp only
  rw [k1, k2, k3, k4, ← e1, ← e2]
  clear k1 k2 k3 k4 e1 e2 o1 p3 p1 p2
  generalize 1 + dF * (x1 * y1 * (x1 * y1)) = B at *
  generalize 1 - dF * (x1 * y1 * (x1 * y1)) = D at *
  generalize p.z * p.z = z at *
  refine ⟨EC.mul_ne (EC.mul_ne hz d1) (EC.mul_ne hz d2), by grind, by grind, by grind⟩
/-- p in extended coordinates. -/
def X4.IsP (x : X4) (p : EC.Pt) : Prop := x.Is p.1.1 p.1.2
theorem X4.IsP.add {x y : X4} {p q : EC.Pt} (hx : x.IsP p) (hy : y.IsP q) : (x.sum y).IsP (EC.add p q) := X4.Is.sum hx hy p.2 q.2
theorem X4.IsP.dbl {x : X4} {p : EC.Pt} (hx : x.IsP p) : x.dbl.IsP (EC.add p p) := X4.Is.dbl hx p.2
theorem X4.IsP.of (p : EC.Pt) : (X4.of p).IsP p := X4.of_is p
theorem X4.IsP.point {x : X4} {p : EC.Pt} (h : x.IsP p) (w : World) (g : Nat) (hr : RAt w g x.l) : Calls Try.prog 82 #[.pointer (some ⟨g, 0, none⟩)] w (Gives (vPt p) w) := by
  have h2 := epoint_any x w g hr
  have hq := X4.Is.point h
  rw [hq.1, hq.2] at h2
  exact h2
end Go.Proofs.Ytgdimnbdnepbgaa
/- Two multiples in one loop. No statement is proved here. -/
namespace Go.Proofs.Ytgdimnbdnepbgaa
open Go.RowKit
set_option linter.unusedVariables false
set_option maxRecDepth 40000
set_option linter.unusedSimpArgs false

theorem wq_nilc {P : Program} {ops : Array Oper} {rest : List Oper} {o : Oper} {a : Act} {w0 : World} {Q : Act → Prop} (hw : Region.wanted o (yielded ops a.tmps) = true) (x : Operand) (ho : o.op = .nilCheck x) (A : Addr) (hx : a.eval x = .pointer (some A)) (h : WQ P ops (CB w0) Q rest (a.put o.dst (.pointer (some A)))) : WQ P ops (CB w0) Q (o :: rest) a :=
  ⟨qb_val hw _ (fun w _ => exec_nil x ho A hx) h.out⟩
theorem run_eq102 (a b c d : Bool) (w : World) : (binOp .eql 102 (.agg #[.bool a, .bool b]) (.agg #[.bool c, .bool d])).run Try.prog w = .ok (.bool ((a == c) && (b == d))) w := by
  cases a <;> cases b <;> cases c <;> cases d <;> kernel_rfl
theorem exec_eq102 {o : Oper} {act : Act} {w : World} (x y : Operand) (ho : o.op = .binOp .eql 102 x y 102) (a b c d r : Bool) (hx : act.eval x = .agg #[.bool a, .bool b]) (hy : act.eval y = .agg #[.bool c, .bool d]) (hr : ((a == c) && (b == d)) = r) : (execOp act.eval o).run Try.prog w = .ok (.value (.bool r)) w := by
  have hg : (eqGuard .eql 102 x y (.agg #[.bool a, .bool b]) (.agg #[.bool c, .bool d])).run Try.prog w = .ok () w := run_eqGuard_agg w .eql 102 x y _ _ Try.eqGuardType102
  unfold execOp
  simp only [ho, hx, hy, Sem.run_bind, Sem.run_pure, Result.andThen_ok, hg, run_eq102, hr]
theorem eread_zero (r0 r1 r2 r3 : Nat) (w : World) (g g1 : Nat) (h0 : RAt w g [r0, r1, r2, r3]) (h1 : RAt w g1 [0, 1]) (n1 : g ≠ g1) :
    Calls Try.prog 80 #[.pointer (some ⟨g, 0, none⟩), .pointer (some ⟨g1, 0, none⟩)] w (SetsR g (X4.of EC.zero).l w) := by
  have h := eread_any 0 1 r0 r1 r2 r3 w g g1 h0 (by rw [v0, v1]; exact h1) n1
  rw [of_l]
  exact h

set_option maxHeartbeats 8000000 in
theorem mul2_any (P Q : EC.Pt) (xp xq R0 : X4) (a b : Nat) (w : World) (g ga gp gb gq : Nat) (HPI : Hid (xp.IsP P)) (HQI : Hid (xq.IsP Q)) (HaT : Hid (a < TT)) (HbT : Hid (b < TT))
    (HG0 : Hid (RAt w g R0.l)) (HA0 : Hid (RAt w ga [a])) (HP0 : Hid (RAt w gp xp.l)) (HB0 : Hid (RAt w gb [b])) (HQ0 : Hid (RAt w gq xq.l))
    (NHA : Hid (ga ≠ g)) (NHP : Hid (gp ≠ g)) (NHB : Hid (gb ≠ g)) (NHQ : Hid (gq ≠ g)) :
    Calls Try.prog 88 #[.pointer (some ⟨g, 0, none⟩), .pointer (some ⟨ga, 0, none⟩), .pointer (some ⟨gp, 0, none⟩), .pointer (some ⟨gb, 0, none⟩), .pointer (some ⟨gq, 0, none⟩)] w (fun e w' => ∃ R : X4, R.IsP (EC.two P Q a b 0) ∧ SetsR g R.l w e w') := by
  go_enter Try.func88, Try.ntmps88
  go_wp2_with (first | ((with_reducible show wpList _ _ _ (⟨some 10, .alloc 76, _, _, _, _⟩ :: _) _ _); go_must (refine wpList_alloc_row rfl 76 rfl (.agg (zbs 128)) zero76 ?_; intro w1 h1 z1 g1; have HX1 : Hid (RAt w1 w.heap.size [0, 0, 0, 0]) := Lib.hid (zrow (k := 4) h1); have G1 := Lib.hid g1; clear h1 z1 g1)) | fail)
  have HG1 := Lib.hid (HG0.out.grown G1.out (by simp))
  have HA1 := Lib.hid (HA0.out.grown G1.out (by simp))
  have HP1 := Lib.hid (HP0.out.grown G1.out (by simp))
  have HB1 := Lib.hid (HB0.out.grown G1.out (by simp))
  have HQ1 := Lib.hid (HQ0.out.grown G1.out (by simp))
  have HK1 : Hid (Keeps (· = g) w w1) := Lib.hid ((Keeps.refl _ _).alloc G1.out)
  have NHX : Hid (w.heap.size ≠ g) := Lib.hid (by have := HG0.out.lt; omega)
  have XHG : Hid (g ≠ w.heap.size) := Lib.hid (by have := HG0.out.lt; omega)
  have XHA : Hid (ga ≠ w.heap.size) := Lib.hid (by have := HA0.out.lt; omega)
  have XHP : Hid (gp ≠ w.heap.size) := Lib.hid (by have := HP0.out.lt; omega)
  have XHB : Hid (gb ≠ w.heap.size) := Lib.hid (by have := HB0.out.lt; omega)
  have XHQ : Hid (gq ≠ w.heap.size) := Lib.hid (by have := HQ0.out.lt; omega)
  have HS : Hid (w.heap.size ≤ w.heap.size) := Lib.hid (Nat.le_refl _)
  clear HG0 HA0 HP0 HB0 HQ0 G1
  obtain ⟨xb, hxb⟩ : ∃ x, x = xp.sum xq := ⟨_, rfl⟩
  have HXI : Hid (xb.IsP (EC.add P Q)) := Lib.hid (by rw [hxb]; exact HPI.out.add HQI.out)
  refine (eadd_any xp xq 0 0 0 0 _ w.heap.size gp gq HX1.out HP1.out HQ1.out).mono ?_
  rintro e w2 ⟨rfl, hr, hk⟩
  rw [← hxb] at hr
  clear hxb
  have HX2 := Lib.hid hr
  have HG2 := Lib.hid (HG1.out.keeps hk (by have := XHG.out; show ¬ _ = _; omega))
  have HA2 := Lib.hid (HA1.out.keeps hk (by have := XHA.out; show ¬ _ = _; omega))
  have HP2 := Lib.hid (HP1.out.keeps hk (by have := XHP.out; show ¬ _ = _; omega))
  have HB2 := Lib.hid (HB1.out.keeps hk (by have := XHB.out; show ¬ _ = _; omega))
  have HQ2 := Lib.hid (HQ1.out.keeps hk (by have := XHQ.out; show ¬ _ = _; omega))
  have HK2 := Lib.hid (HK1.out.method hk HS.out)
  clear hr hk
  clear HG1 HA1 HP1 HB1 HQ1 HX1 HK1
  go_wp2_with fail
  refine (Zero_any _).mono ?_
  rintro e w3 ⟨rfl, hb⟩
  have HG3 := Lib.hid (HG2.out.keep hb)
  have HA3 := Lib.hid (HA2.out.keep hb)
  have HP3 := Lib.hid (HP2.out.keep hb)
  have HB3 := Lib.hid (HB2.out.keep hb)
  have HQ3 := Lib.hid (HQ2.out.keep hb)
  have HX3 := Lib.hid (HX2.out.keep hb)
  have HK3 := Lib.hid (HK2.out.call hb)
  clear hb
  clear HG2 HA2 HP2 HB2 HQ2 HX2 HK2
  go_wp2_with (first | ((with_reducible show wpList _ _ _ (⟨some 11, .alloc 35, _, _, _, _⟩ :: _) _ _); go_must (refine wpList_alloc_row rfl 35 rfl (.agg (zbs 64)) zero35 ?_; intro w4 h1 z1 g1; have R4 : Hid (RAt w4 w3.heap.size [0, 0]) := Lib.hid (zrow (k := 2) h1); have G4 := Lib.hid g1; clear h1 z1 g1)) | ((with_reducible show wpList _ _ _ (⟨none, .store 35 (.tmp 11) (.tmp 16), _, _, _, _⟩ :: _) _ _); go_must (refine wpList_storeP rfl (.tmp 11) (.tmp 16) rfl (w3.heap.size) [0, 0] 0 1 rfl rfl R4.out rfl ?_; intro w5 hr5 hg5 hz5; have HZ5 := Lib.hid hr5; have G5 := Lib.hid hg5; clear hr5 hg5 hz5)) | fail)
  have HG5 := Lib.hid ((HG3.out.grown G4.out (by simp)).grown G5.out (by have := HG3.out.lt; simp; omega))
  have HA5 := Lib.hid ((HA3.out.grown G4.out (by simp)).grown G5.out (by have := HA3.out.lt; simp; omega))
  have HP5 := Lib.hid ((HP3.out.grown G4.out (by simp)).grown G5.out (by have := HP3.out.lt; simp; omega))
  have HB5 := Lib.hid ((HB3.out.grown G4.out (by simp)).grown G5.out (by have := HB3.out.lt; simp; omega))
  have HQ5 := Lib.hid ((HQ3.out.grown G4.out (by simp)).grown G5.out (by have := HQ3.out.lt; simp; omega))
  have HX5 := Lib.hid ((HX3.out.grown G4.out (by simp)).grown G5.out (by have := HX3.out.lt; simp; omega))
  have HK5 := Lib.hid ((HK3.out.alloc G4.out).newrow G5.out HK3.out.size)
  have HNZ : Hid (g ≠ w3.heap.size) := Lib.hid (by have := HG3.out.lt; omega)
  clear G4 G5 R4
  clear HG3 HA3 HP3 HB3 HQ3 HX3 HK3
  generalize w3.heap.size = gz at *
  skip
  refine (eread_zero _ _ _ _ _ g gz HG5.out HZ5.out HNZ.out).mono ?_
  rintro e w6 ⟨rfl, hr, hk⟩
  have HA6 := Lib.hid (HA5.out.keeps hk (by have := NHA.out; show ¬ _ = _; omega))
  have HP6 := Lib.hid (HP5.out.keeps hk (by have := NHP.out; show ¬ _ = _; omega))
  have HB6 := Lib.hid (HB5.out.keeps hk (by have := NHB.out; show ¬ _ = _; omega))
  have HQ6 := Lib.hid (HQ5.out.keeps hk (by have := NHQ.out; show ¬ _ = _; omega))
  have HX6 := Lib.hid (HX5.out.keeps hk (by have := NHX.out; show ¬ _ = _; omega))
  have HG6 := Lib.hid hr
  have HK6 := Lib.hid (HK5.out.trans hk)
  clear hr hk HZ5 HNZ
  clear HG5 HA5 HP5 HB5 HQ5 HX5 HK5
  go_wp2_with fail
  refine (highest_core a b ga gb _ HA6 HB6 (Lib.hid ⟨Nat.le_refl _, Nat.div_eq_of_lt HaT.out, Nat.div_eq_of_lt HbT.out⟩) (Lib.hid fun i hi w => Bit_any a i HaT.out hi w) (Lib.hid fun i hi w => Bit_any b i HbT.out hi w)).mono ?_
  rintro e w7 ⟨j, hj, rfl, hb⟩
  have HG7 := Lib.hid (HG6.out.keep hb)
  have HA7 := Lib.hid (HA6.out.keep hb)
  have HP7 := Lib.hid (HP6.out.keep hb)
  have HB7 := Lib.hid (HB6.out.keep hb)
  have HQ7 := Lib.hid (HQ6.out.keep hb)
  have HX7 := Lib.hid (HX6.out.keep hb)
  have HK7 := Lib.hid (HK6.out.call hb)
  have HJ := Lib.hid hj
  clear hb hj
  clear HG6 HA6 HP6 HB6 HQ6 HX6 HK6
  go_wp2_with fail
  go_loopw [12] (fun k wr => ∃ (j : Nat) (R : X4), j ≤ 256 ∧ k = .int .i64 ((j : Int) - 1) ∧ R.IsP (EC.two P Q a b j) ∧ RAt wr g R.l ∧ RAt wr ga [a] ∧ RAt wr gp xp.l ∧ RAt wr gb [b] ∧ RAt wr gq xq.l ∧ RAt wr w.heap.size xb.l ∧ Keeps (· = g) w wr) (fun k _ => ((intOf k) + 1).toNat)
  case atStart =>
    obtain ⟨h1, h2, h3⟩ := HJ.out
    refine ⟨j, X4.of EC.zero, h1, rfl, ?_, HG7.out, HA7.out, HP7.out, HB7.out, HQ7.out, HX7.out, HK7.out⟩
    have e : EC.two P Q a b j = EC.zero := by
      unfold Ed.two
      rw [h2, h3]
      exact EC.add_zero _
    rw [e]
    exact X4.IsP.of _
  case round =>
    obtain ⟨j, R, hj, rfl, hi, h1, h2, h3, h4, h5, h6, h7⟩ := hrel
    have HI := Lib.hid hi
    have HG := Lib.hid h1
    have HA := Lib.hid h2
    have HP := Lib.hid h3
    have HB := Lib.hid h4
    have HQ := Lib.hid h5
    have HX := Lib.hid h6
    have HK := Lib.hid h7
    clear hi h1 h2 h3 h4 h5 h6 h7 HJ HG7 HA7 HP7 HB7 HQ7 HX7 HK7
    by_cases h0 : j = 0
    · subst h0
      go_wp2_with fail
      refine bodyPost_end (results_none rfl _ _ _) rfl ?_
      exact ⟨R, HI.out, rfl, HG.out, HK.out⟩
    · obtain ⟨i, rfl⟩ : ∃ i, j = i + 1 := ⟨j - 1, by omega⟩
      rw [show ((i + 1 : Nat) : Int) - 1 = (i : Int) from by omega]
      have hii : (0 : Int) ≤ (i : Int) := by omega
      have hib : (i : Int) < 256 := by omega
      go_wp2_with fail
      refine (edouble_any R _ _ _ _ _ g g HG.out HG.out).mono ?_
      rintro e y0 ⟨rfl, hr, hk⟩
      have HA2 := Lib.hid (HA.out.keeps hk (by have := NHA.out; show ¬ _ = _; omega))
      have HP2 := Lib.hid (HP.out.keeps hk (by have := NHP.out; show ¬ _ = _; omega))
      have HB2 := Lib.hid (HB.out.keeps hk (by have := NHB.out; show ¬ _ = _; omega))
      have HQ2 := Lib.hid (HQ.out.keeps hk (by have := NHQ.out; show ¬ _ = _; omega))
      have HX2 := Lib.hid (HX.out.keeps hk (by have := NHX.out; show ¬ _ = _; omega))
      have HG2 := Lib.hid hr
      have HK2 := Lib.hid (HK.out.trans hk)
      clear hr hk HG HA HP HB HQ HX HK
      go_wp2_with fail
      by_cases ea : a / 2 ^ i % 2 = 1
      · by_cases eb : b / 2 ^ i % 2 = 1
        · have HBA : Hid (∀ w, Calls Try.prog 103 #[vN a, .int .i64 (i : Nat)] w (Gives (.bool true) w)) := Lib.hid fun w => by have h := Bit_any a i HaT.out (by omega) w; rw [decide_eq_true ea] at h; exact h
          have HBB : Hid (∀ w, Calls Try.prog 103 #[vN b, .int .i64 (i : Nat)] w (Gives (.bool true) w)) := Lib.hid fun w => by have h := Bit_any b i HbT.out (by omega) w; rw [decide_eq_true eb] at h; exact h
          refine region_wq (by kernel_rfl) (by kernel_rfl) ?_
          refine wq_move rfl (.tmp 1) rfl (.pointer (some ⟨ga, 0, none⟩)) rfl ?_
          simp only [Act.put, zA, zB, zC]
          refine wq_nilc rfl (.tmp 29) rfl _ rfl ?_
          simp only [Act.put, zA, zB, zC]
          refine wq_loadF rfl (.tmp 30) rfl (ga) 0 0 rfl [a] a rfl HA2.out rfl ?_
          simp only [Act.put, zA, zB, zC]
          refine wq_move rfl (.tmp 12) rfl (.int .i64 (i : Nat)) rfl ?_
          simp only [Act.put, zA, zB, zC]
          refine wq_call rfl 103 [.tmp 31, .tmp 32] #[23, 3] rfl [vN a, .int .i64 (i : Nat)] rfl (CG103 _) (.bool true) HBA.out ?_
          simp only [Act.put, zA, zB, zC]
          refine wq_move rfl (.tmp 3) rfl (.pointer (some ⟨gb, 0, none⟩)) rfl ?_
          simp only [Act.put, zA, zB, zC]
          refine wq_nilc rfl (.tmp 34) rfl _ rfl ?_
          simp only [Act.put, zA, zB, zC]
          refine wq_loadF rfl (.tmp 35) rfl (gb) 0 0 rfl [b] b rfl HB2.out rfl ?_
          simp only [Act.put, zA, zB, zC]
          refine wq_move rfl (.tmp 12) rfl (.int .i64 (i : Nat)) rfl ?_
          simp only [Act.put, zA, zB, zC]
          refine wq_call rfl 103 [.tmp 36, .tmp 37] #[23, 3] rfl [vN b, .int .i64 (i : Nat)] rfl (CG103 _) (.bool true) HBB.out ?_
          simp only [Act.put, zA, zB, zC]
          refine wq_buildc rfl 102 _ (.agg #[.bool true, .bool true]) rfl (fun w => by kernel_rfl) ?_
          simp only [Act.put, zA, zB, zC]
          refine wq_nil ?_
          intro W hb
          have HG3 := Lib.hid (HG2.out.keep hb)
          have HA3 := Lib.hid (HA2.out.keep hb)
          have HP3 := Lib.hid (HP2.out.keep hb)
          have HB3 := Lib.hid (HB2.out.keep hb)
          have HQ3 := Lib.hid (HQ2.out.keep hb)
          have HX3 := Lib.hid (HX2.out.keep hb)
          have HK3 := Lib.hid (HK2.out.call hb)
          clear hb HBA HBB
          clear HG2 HA2 HP2 HB2 HQ2 HX2 HK2
          go_wp2_with (first | ((with_reducible show wpList _ _ _ (⟨_, .build 102 #[(0, .const (.bool true)), (1, .const (.bool true))], _, _, _, _⟩ :: _) _ _); go_must (refine wpList_exec rfl (.agg #[.bool true, .bool true]) (exec_buildc rfl (by kernel_rfl)) ?_)) | ((with_reducible show wpList _ _ _ (⟨_, .binOp .eql 102 (.tmp 39) (.tmp 41) 102, _, _, _, _⟩ :: _) _ _); go_must (refine wpList_exec rfl (.bool true) (exec_eq102 (.tmp 39) (.tmp 41) rfl true true true true true rfl rfl rfl) ?_)) | fail)
          refine (eadd_any R.dbl xb _ _ _ _ _ g g w.heap.size HG3.out HG3.out HX3.out).mono ?_
          rintro e y1 ⟨rfl, hr, hk⟩
          have HA4 := Lib.hid (HA3.out.keeps hk (by have := NHA.out; show ¬ _ = _; omega))
          have HP4 := Lib.hid (HP3.out.keeps hk (by have := NHP.out; show ¬ _ = _; omega))
          have HB4 := Lib.hid (HB3.out.keeps hk (by have := NHB.out; show ¬ _ = _; omega))
          have HQ4 := Lib.hid (HQ3.out.keeps hk (by have := NHQ.out; show ¬ _ = _; omega))
          have HX4 := Lib.hid (HX3.out.keeps hk (by have := NHX.out; show ¬ _ = _; omega))
          have HG4 := Lib.hid hr
          have HK4 := Lib.hid (HK3.out.trans hk)
          clear hr hk
          clear HG3 HA3 HP3 HB3 HQ3 HX3 HK3
          go_wp2_with fail
          have hd := HI.out.dbl
          refine ⟨⟨i, R.dbl.sum xb, by omega, by go_num, by rw [EC.two_step, ea, eb, EC.sm_one, EC.sm_one]; exact (hd.add HXI.out), HG4.out, HA4.out, HP4.out, HB4.out, HQ4.out, HX4.out, HK4.out⟩, by simp [intOf]⟩
        · have HBA : Hid (∀ w, Calls Try.prog 103 #[vN a, .int .i64 (i : Nat)] w (Gives (.bool true) w)) := Lib.hid fun w => by have h := Bit_any a i HaT.out (by omega) w; rw [decide_eq_true ea] at h; exact h
          have HBB : Hid (∀ w, Calls Try.prog 103 #[vN b, .int .i64 (i : Nat)] w (Gives (.bool false) w)) := Lib.hid fun w => by have h := Bit_any b i HbT.out (by omega) w; rw [decide_eq_false eb] at h; exact h
          refine region_wq (by kernel_rfl) (by kernel_rfl) ?_
          refine wq_move rfl (.tmp 1) rfl (.pointer (some ⟨ga, 0, none⟩)) rfl ?_
          simp only [Act.put, zA, zB, zC]
          refine wq_nilc rfl (.tmp 29) rfl _ rfl ?_
          simp only [Act.put, zA, zB, zC]
          refine wq_loadF rfl (.tmp 30) rfl (ga) 0 0 rfl [a] a rfl HA2.out rfl ?_
          simp only [Act.put, zA, zB, zC]
          refine wq_move rfl (.tmp 12) rfl (.int .i64 (i : Nat)) rfl ?_
          simp only [Act.put, zA, zB, zC]
          refine wq_call rfl 103 [.tmp 31, .tmp 32] #[23, 3] rfl [vN a, .int .i64 (i : Nat)] rfl (CG103 _) (.bool true) HBA.out ?_
          simp only [Act.put, zA, zB, zC]
          refine wq_move rfl (.tmp 3) rfl (.pointer (some ⟨gb, 0, none⟩)) rfl ?_
          simp only [Act.put, zA, zB, zC]
          refine wq_nilc rfl (.tmp 34) rfl _ rfl ?_
          simp only [Act.put, zA, zB, zC]
          refine wq_loadF rfl (.tmp 35) rfl (gb) 0 0 rfl [b] b rfl HB2.out rfl ?_
          simp only [Act.put, zA, zB, zC]
          refine wq_move rfl (.tmp 12) rfl (.int .i64 (i : Nat)) rfl ?_
          simp only [Act.put, zA, zB, zC]
          refine wq_call rfl 103 [.tmp 36, .tmp 37] #[23, 3] rfl [vN b, .int .i64 (i : Nat)] rfl (CG103 _) (.bool false) HBB.out ?_
          simp only [Act.put, zA, zB, zC]
          refine wq_buildc rfl 102 _ (.agg #[.bool true, .bool false]) rfl (fun w => by kernel_rfl) ?_
          simp only [Act.put, zA, zB, zC]
          refine wq_nil ?_
          intro W hb
          have HG3 := Lib.hid (HG2.out.keep hb)
          have HA3 := Lib.hid (HA2.out.keep hb)
          have HP3 := Lib.hid (HP2.out.keep hb)
          have HB3 := Lib.hid (HB2.out.keep hb)
          have HQ3 := Lib.hid (HQ2.out.keep hb)
          have HX3 := Lib.hid (HX2.out.keep hb)
          have HK3 := Lib.hid (HK2.out.call hb)
          clear hb HBA HBB
          clear HG2 HA2 HP2 HB2 HQ2 HX2 HK2
          go_wp2_with (first | ((with_reducible show wpList _ _ _ (⟨_, .build 102 #[(0, .const (.bool true)), (1, .const (.bool true))], _, _, _, _⟩ :: _) _ _); go_must (refine wpList_exec rfl (.agg #[.bool true, .bool true]) (exec_buildc rfl (by kernel_rfl)) ?_)) | ((with_reducible show wpList _ _ _ (⟨_, .binOp .eql 102 (.tmp 39) (.tmp 41) 102, _, _, _, _⟩ :: _) _ _); go_must (refine wpList_exec rfl (.bool false) (exec_eq102 (.tmp 39) (.tmp 41) rfl true false true true false rfl rfl rfl) ?_)) | ((with_reducible show wpList _ _ _ (⟨_, .build 102 #[(0, .const (.bool true)), (1, .const (.bool false))], _, _, _, _⟩ :: _) _ _); go_must (refine wpList_exec rfl (.agg #[.bool true, .bool false]) (exec_buildc rfl (by kernel_rfl)) ?_)) | ((with_reducible show wpList _ _ _ (⟨_, .binOp .eql 102 (.tmp 39) (.tmp 47) 102, _, _, _, _⟩ :: _) _ _); go_must (refine wpList_exec rfl (.bool true) (exec_eq102 (.tmp 39) (.tmp 47) rfl true false true false true rfl rfl rfl) ?_)) | fail)
          refine (eadd_any R.dbl xp _ _ _ _ _ g g gp HG3.out HG3.out HP3.out).mono ?_
          rintro e y1 ⟨rfl, hr, hk⟩
          have HA4 := Lib.hid (HA3.out.keeps hk (by have := NHA.out; show ¬ _ = _; omega))
          have HP4 := Lib.hid (HP3.out.keeps hk (by have := NHP.out; show ¬ _ = _; omega))
          have HB4 := Lib.hid (HB3.out.keeps hk (by have := NHB.out; show ¬ _ = _; omega))
          have HQ4 := Lib.hid (HQ3.out.keeps hk (by have := NHQ.out; show ¬ _ = _; omega))
          have HX4 := Lib.hid (HX3.out.keeps hk (by have := NHX.out; show ¬ _ = _; omega))
          have HG4 := Lib.hid hr
          have HK4 := Lib.hid (HK3.out.trans hk)
          clear hr hk
          clear HG3 HA3 HP3 HB3 HQ3 HX3 HK3
          go_wp2_with fail
          have eb0 : b / 2 ^ i % 2 = 0 := by omega
          have hd := HI.out.dbl
          refine ⟨⟨i, R.dbl.sum xp, by omega, by go_num, by rw [EC.two_step, ea, eb0, EC.sm_one, show EC.sm Q 0 = EC.zero from rfl, EC.add_zero]; exact (hd.add HPI.out), HG4.out, HA4.out, HP4.out, HB4.out, HQ4.out, HX4.out, HK4.out⟩, by simp [intOf]⟩
      · by_cases eb : b / 2 ^ i % 2 = 1
        · have HBA : Hid (∀ w, Calls Try.prog 103 #[vN a, .int .i64 (i : Nat)] w (Gives (.bool false) w)) := Lib.hid fun w => by have h := Bit_any a i HaT.out (by omega) w; rw [decide_eq_false ea] at h; exact h
          have HBB : Hid (∀ w, Calls Try.prog 103 #[vN b, .int .i64 (i : Nat)] w (Gives (.bool true) w)) := Lib.hid fun w => by have h := Bit_any b i HbT.out (by omega) w; rw [decide_eq_true eb] at h; exact h
          refine region_wq (by kernel_rfl) (by kernel_rfl) ?_
          refine wq_move rfl (.tmp 1) rfl (.pointer (some ⟨ga, 0, none⟩)) rfl ?_
          simp only [Act.put, zA, zB, zC]
          refine wq_nilc rfl (.tmp 29) rfl _ rfl ?_
          simp only [Act.put, zA, zB, zC]
          refine wq_loadF rfl (.tmp 30) rfl (ga) 0 0 rfl [a] a rfl HA2.out rfl ?_
          simp only [Act.put, zA, zB, zC]
          refine wq_move rfl (.tmp 12) rfl (.int .i64 (i : Nat)) rfl ?_
          simp only [Act.put, zA, zB, zC]
          refine wq_call rfl 103 [.tmp 31, .tmp 32] #[23, 3] rfl [vN a, .int .i64 (i : Nat)] rfl (CG103 _) (.bool false) HBA.out ?_
          simp only [Act.put, zA, zB, zC]
          refine wq_move rfl (.tmp 3) rfl (.pointer (some ⟨gb, 0, none⟩)) rfl ?_
          simp only [Act.put, zA, zB, zC]
          refine wq_nilc rfl (.tmp 34) rfl _ rfl ?_
          simp only [Act.put, zA, zB, zC]
          refine wq_loadF rfl (.tmp 35) rfl (gb) 0 0 rfl [b] b rfl HB2.out rfl ?_
          simp only [Act.put, zA, zB, zC]
          refine wq_move rfl (.tmp 12) rfl (.int .i64 (i : Nat)) rfl ?_
          simp only [Act.put, zA, zB, zC]
          refine wq_call rfl 103 [.tmp 36, .tmp 37] #[23, 3] rfl [vN b, .int .i64 (i : Nat)] rfl (CG103 _) (.bool true) HBB.out ?_
          simp only [Act.put, zA, zB, zC]
          refine wq_buildc rfl 102 _ (.agg #[.bool false, .bool true]) rfl (fun w => by kernel_rfl) ?_
          simp only [Act.put, zA, zB, zC]
          refine wq_nil ?_
          intro W hb
          have HG3 := Lib.hid (HG2.out.keep hb)
          have HA3 := Lib.hid (HA2.out.keep hb)
          have HP3 := Lib.hid (HP2.out.keep hb)
          have HB3 := Lib.hid (HB2.out.keep hb)
          have HQ3 := Lib.hid (HQ2.out.keep hb)
          have HX3 := Lib.hid (HX2.out.keep hb)
          have HK3 := Lib.hid (HK2.out.call hb)
          clear hb HBA HBB
          clear HG2 HA2 HP2 HB2 HQ2 HX2 HK2
          go_wp2_with (first | ((with_reducible show wpList _ _ _ (⟨_, .build 102 #[(0, .const (.bool true)), (1, .const (.bool true))], _, _, _, _⟩ :: _) _ _); go_must (refine wpList_exec rfl (.agg #[.bool true, .bool true]) (exec_buildc rfl (by kernel_rfl)) ?_)) | ((with_reducible show wpList _ _ _ (⟨_, .binOp .eql 102 (.tmp 39) (.tmp 41) 102, _, _, _, _⟩ :: _) _ _); go_must (refine wpList_exec rfl (.bool false) (exec_eq102 (.tmp 39) (.tmp 41) rfl false true true true false rfl rfl rfl) ?_)) | ((with_reducible show wpList _ _ _ (⟨_, .build 102 #[(0, .const (.bool true)), (1, .const (.bool false))], _, _, _, _⟩ :: _) _ _); go_must (refine wpList_exec rfl (.agg #[.bool true, .bool false]) (exec_buildc rfl (by kernel_rfl)) ?_)) | ((with_reducible show wpList _ _ _ (⟨_, .binOp .eql 102 (.tmp 39) (.tmp 47) 102, _, _, _, _⟩ :: _) _ _); go_must (refine wpList_exec rfl (.bool false) (exec_eq102 (.tmp 39) (.tmp 47) rfl false true true false false rfl rfl rfl) ?_)) | ((with_reducible show wpList _ _ _ (⟨_, .build 102 #[(0, .const (.bool false)), (1, .const (.bool true))], _, _, _, _⟩ :: _) _ _); go_must (refine wpList_exec rfl (.agg #[.bool false, .bool true]) (exec_buildc rfl (by kernel_rfl)) ?_)) | ((with_reducible show wpList _ _ _ (⟨_, .binOp .eql 102 (.tmp 39) (.tmp 54) 102, _, _, _, _⟩ :: _) _ _); go_must (refine wpList_exec rfl (.bool true) (exec_eq102 (.tmp 39) (.tmp 54) rfl false true false true true rfl rfl rfl) ?_)) | fail)
          refine (eadd_any R.dbl xq _ _ _ _ _ g g gq HG3.out HG3.out HQ3.out).mono ?_
          rintro e y1 ⟨rfl, hr, hk⟩
          have HA4 := Lib.hid (HA3.out.keeps hk (by have := NHA.out; show ¬ _ = _; omega))
          have HP4 := Lib.hid (HP3.out.keeps hk (by have := NHP.out; show ¬ _ = _; omega))
          have HB4 := Lib.hid (HB3.out.keeps hk (by have := NHB.out; show ¬ _ = _; omega))
          have HQ4 := Lib.hid (HQ3.out.keeps hk (by have := NHQ.out; show ¬ _ = _; omega))
          have HX4 := Lib.hid (HX3.out.keeps hk (by have := NHX.out; show ¬ _ = _; omega))
          have HG4 := Lib.hid hr
          have HK4 := Lib.hid (HK3.out.trans hk)
          clear hr hk
          clear HG3 HA3 HP3 HB3 HQ3 HX3 HK3
          go_wp2_with fail
          have ea0 : a / 2 ^ i % 2 = 0 := by omega
          have hd := HI.out.dbl
          refine ⟨⟨i, R.dbl.sum xq, by omega, by go_num, by rw [EC.two_step, ea0, eb, EC.sm_one, show EC.sm P 0 = EC.zero from rfl, EC.zero_add]; exact (hd.add HQI.out), HG4.out, HA4.out, HP4.out, HB4.out, HQ4.out, HX4.out, HK4.out⟩, by simp [intOf]⟩
        · have HBA : Hid (∀ w, Calls Try.prog 103 #[vN a, .int .i64 (i : Nat)] w (Gives (.bool false) w)) := Lib.hid fun w => by have h := Bit_any a i HaT.out (by omega) w; rw [decide_eq_false ea] at h; exact h
          have HBB : Hid (∀ w, Calls Try.prog 103 #[vN b, .int .i64 (i : Nat)] w (Gives (.bool false) w)) := Lib.hid fun w => by have h := Bit_any b i HbT.out (by omega) w; rw [decide_eq_false eb] at h; exact h
          refine region_wq (by kernel_rfl) (by kernel_rfl) ?_
          refine wq_move rfl (.tmp 1) rfl (.pointer (some ⟨ga, 0, none⟩)) rfl ?_
          simp only [Act.put, zA, zB, zC]
          refine wq_nilc rfl (.tmp 29) rfl _ rfl ?_
          simp only [Act.put, zA, zB, zC]
          refine wq_loadF rfl (.tmp 30) rfl (ga) 0 0 rfl [a] a rfl HA2.out rfl ?_
          simp only [Act.put, zA, zB, zC]
          refine wq_move rfl (.tmp 12) rfl (.int .i64 (i : Nat)) rfl ?_
          simp only [Act.put, zA, zB, zC]
          refine wq_call rfl 103 [.tmp 31, .tmp 32] #[23, 3] rfl [vN a, .int .i64 (i : Nat)] rfl (CG103 _) (.bool false) HBA.out ?_
          simp only [Act.put, zA, zB, zC]
          refine wq_move rfl (.tmp 3) rfl (.pointer (some ⟨gb, 0, none⟩)) rfl ?_
          simp only [Act.put, zA, zB, zC]
          refine wq_nilc rfl (.tmp 34) rfl _ rfl ?_
          simp only [Act.put, zA, zB, zC]
          refine wq_loadF rfl (.tmp 35) rfl (gb) 0 0 rfl [b] b rfl HB2.out rfl ?_
          simp only [Act.put, zA, zB, zC]
          refine wq_move rfl (.tmp 12) rfl (.int .i64 (i : Nat)) rfl ?_
          simp only [Act.put, zA, zB, zC]
          refine wq_call rfl 103 [.tmp 36, .tmp 37] #[23, 3] rfl [vN b, .int .i64 (i : Nat)] rfl (CG103 _) (.bool false) HBB.out ?_
          simp only [Act.put, zA, zB, zC]
          refine wq_buildc rfl 102 _ (.agg #[.bool false, .bool false]) rfl (fun w => by kernel_rfl) ?_
          simp only [Act.put, zA, zB, zC]
          refine wq_nil ?_
          intro W hb
          have HG3 := Lib.hid (HG2.out.keep hb)
          have HA3 := Lib.hid (HA2.out.keep hb)
          have HP3 := Lib.hid (HP2.out.keep hb)
          have HB3 := Lib.hid (HB2.out.keep hb)
          have HQ3 := Lib.hid (HQ2.out.keep hb)
          have HX3 := Lib.hid (HX2.out.keep hb)
          have HK3 := Lib.hid (HK2.out.call hb)
          clear hb HBA HBB
          clear HG2 HA2 HP2 HB2 HQ2 HX2 HK2
          go_wp2_with (first | ((with_reducible show wpList _ _ _ (⟨_, .build 102 #[(0, .const (.bool true)), (1, .const (.bool true))], _, _, _, _⟩ :: _) _ _); go_must (refine wpList_exec rfl (.agg #[.bool true, .bool true]) (exec_buildc rfl (by kernel_rfl)) ?_)) | ((with_reducible show wpList _ _ _ (⟨_, .binOp .eql 102 (.tmp 39) (.tmp 41) 102, _, _, _, _⟩ :: _) _ _); go_must (refine wpList_exec rfl (.bool false) (exec_eq102 (.tmp 39) (.tmp 41) rfl false false true true false rfl rfl rfl) ?_)) | ((with_reducible show wpList _ _ _ (⟨_, .build 102 #[(0, .const (.bool true)), (1, .const (.bool false))], _, _, _, _⟩ :: _) _ _); go_must (refine wpList_exec rfl (.agg #[.bool true, .bool false]) (exec_buildc rfl (by kernel_rfl)) ?_)) | ((with_reducible show wpList _ _ _ (⟨_, .binOp .eql 102 (.tmp 39) (.tmp 47) 102, _, _, _, _⟩ :: _) _ _); go_must (refine wpList_exec rfl (.bool false) (exec_eq102 (.tmp 39) (.tmp 47) rfl false false true false false rfl rfl rfl) ?_)) | ((with_reducible show wpList _ _ _ (⟨_, .build 102 #[(0, .const (.bool false)), (1, .const (.bool true))], _, _, _, _⟩ :: _) _ _); go_must (refine wpList_exec rfl (.agg #[.bool false, .bool true]) (exec_buildc rfl (by kernel_rfl)) ?_)) | ((with_reducible show wpList _ _ _ (⟨_, .binOp .eql 102 (.tmp 39) (.tmp 54) 102, _, _, _, _⟩ :: _) _ _); go_must (refine wpList_exec rfl (.bool false) (exec_eq102 (.tmp 39) (.tmp 54) rfl false false false true false rfl rfl rfl) ?_)) | fail)
          have ea0 : a / 2 ^ i % 2 = 0 := by omega
          have eb0 : b / 2 ^ i % 2 = 0 := by omega
          have hd := HI.out.dbl
          refine ⟨⟨i, R.dbl, by omega, by go_num, by rw [EC.two_step, ea0, eb0, show EC.sm P 0 = EC.zero from rfl, show EC.sm Q 0 = EC.zero from rfl, EC.add_zero, EC.add_zero]; exact hd, HG3.out, HA3.out, HP3.out, HB3.out, HQ3.out, HX3.out, HK3.out⟩, by simp [intOf]⟩
end Go.Proofs.Ytgdimnbdnepbgaa
