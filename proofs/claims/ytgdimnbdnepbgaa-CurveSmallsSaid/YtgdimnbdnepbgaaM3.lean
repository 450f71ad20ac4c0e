/- Several texts in one. No statement is proved here. -/
import Derived.Test.YtgdimnbdnepbgaaM2
/- Points in extended coordinates: read, divide. No statement is proved here. -/
namespace Go.Proofs.Ytgdimnbdnepbgaa
open Go.RowKit
set_option linter.unusedVariables false
set_option maxRecDepth 40000
set_option linter.unusedSimpArgs false
def oEB0 : Oper := { dst := some 10, op := Op.move (Operand.tmp 0), type := 80, pos := "extended.go:51", after := #[], guard := none }
def oEB1 : Oper := { dst := some 11, op := Op.move (Operand.tmp 1), type := 62, pos := "extended.go:51", after := #[], guard := none }
def oEB2 : Oper := { dst := some 12, op := Op.nilCheck (Operand.tmp 11), type := 0, pos := "extended.go:51", after := #[{ on := 1, ground := Ground.data }], guard := none }
def oEB3 : Oper := { dst := some 13, op := Op.load 23 (Operand.tmp 12), type := 23, pos := "extended.go:51", after := #[{ on := 2, ground := Ground.data }], guard := none }
def oEB4 : Oper := { dst := some 14, op := Op.move (Operand.tmp 4), type := 62, pos := "extended.go:51", after := #[], guard := none }
def oEB5 : Oper := { dst := some 15, op := Op.nilCheck (Operand.tmp 14), type := 0, pos := "extended.go:51", after := #[{ on := 4, ground := Ground.data }], guard := none }
def oEB6 : Oper := { dst := some 16, op := Op.load 23 (Operand.tmp 15), type := 23, pos := "extended.go:51", after := #[{ on := 5, ground := Ground.data }], guard := none }
def oEB7 : Oper := { dst := some 17, op := Op.call { callee := Callee.value (Operand.func 25), args := #[Operand.tmp 13, Operand.tmp 16], argTypes := #[23, 23] }, type := 23, pos := "extended.go:51", after := #[{ on := 3, ground := Ground.data }, { on := 6, ground := Ground.data }], guard := none }
def oEB8 : Oper := { dst := some 18, op := Op.nilCheck (Operand.tmp 10), type := 0, pos := "extended.go:51", after := #[{ on := 0, ground := Ground.data }, { on := 0, ground := Ground.phase }, { on := 1, ground := Ground.phase }, { on := 2, ground := Ground.phase }, { on := 3, ground := Ground.phase }, { on := 4, ground := Ground.phase }, { on := 5, ground := Ground.phase }, { on := 6, ground := Ground.phase }, { on := 7, ground := Ground.phase }], guard := none }
def oEB9 : Oper := { dst := some 19, op := Op.fieldAddr 76 (Operand.tmp 18) 0, type := 0, pos := "extended.go:51", after := #[{ on := 8, ground := Ground.data }, { on := 0, ground := Ground.phase }, { on := 1, ground := Ground.phase }, { on := 2, ground := Ground.phase }, { on := 3, ground := Ground.phase }, { on := 4, ground := Ground.phase }, { on := 5, ground := Ground.phase }, { on := 6, ground := Ground.phase }, { on := 7, ground := Ground.phase }], guard := none }
def oEB10 : Oper := { dst := none, op := Op.store 23 (Operand.tmp 19) (Operand.tmp 17), type := 0, pos := "extended.go:51", after := #[{ on := 9, ground := Ground.data }, { on := 7, ground := Ground.data }, { on := 7, ground := Ground.chain }, { on := 0, ground := Ground.phase }, { on := 1, ground := Ground.phase }, { on := 2, ground := Ground.phase }, { on := 3, ground := Ground.phase }, { on := 4, ground := Ground.phase }, { on := 5, ground := Ground.phase }, { on := 6, ground := Ground.phase }, { on := 7, ground := Ground.phase }], guard := none }
def oEB11 : Oper := { dst := some 20, op := Op.move (Operand.tmp 0), type := 80, pos := "extended.go:52", after := #[], guard := none }
def oEB12 : Oper := { dst := some 21, op := Op.move (Operand.tmp 3), type := 62, pos := "extended.go:52", after := #[], guard := none }
def oEB13 : Oper := { dst := some 22, op := Op.nilCheck (Operand.tmp 21), type := 0, pos := "extended.go:52", after := #[{ on := 1, ground := Ground.data }], guard := none }
def oEB14 : Oper := { dst := some 23, op := Op.load 23 (Operand.tmp 22), type := 23, pos := "extended.go:52", after := #[{ on := 2, ground := Ground.data }], guard := none }
def oEB15 : Oper := { dst := some 24, op := Op.move (Operand.tmp 2), type := 62, pos := "extended.go:52", after := #[], guard := none }
def oEB16 : Oper := { dst := some 25, op := Op.nilCheck (Operand.tmp 24), type := 0, pos := "extended.go:52", after := #[{ on := 4, ground := Ground.data }], guard := none }
def oEB17 : Oper := { dst := some 26, op := Op.load 23 (Operand.tmp 25), type := 23, pos := "extended.go:52", after := #[{ on := 5, ground := Ground.data }], guard := none }
def oEB18 : Oper := { dst := some 27, op := Op.call { callee := Callee.value (Operand.func 25), args := #[Operand.tmp 23, Operand.tmp 26], argTypes := #[23, 23] }, type := 23, pos := "extended.go:52", after := #[{ on := 3, ground := Ground.data }, { on := 6, ground := Ground.data }], guard := none }
def oEB19 : Oper := { dst := some 28, op := Op.nilCheck (Operand.tmp 20), type := 0, pos := "extended.go:52", after := #[{ on := 0, ground := Ground.data }, { on := 0, ground := Ground.phase }, { on := 1, ground := Ground.phase }, { on := 2, ground := Ground.phase }, { on := 3, ground := Ground.phase }, { on := 4, ground := Ground.phase }, { on := 5, ground := Ground.phase }, { on := 6, ground := Ground.phase }, { on := 7, ground := Ground.phase }], guard := none }
def oEB20 : Oper := { dst := some 29, op := Op.fieldAddr 76 (Operand.tmp 28) 1, type := 0, pos := "extended.go:52", after := #[{ on := 8, ground := Ground.data }, { on := 0, ground := Ground.phase }, { on := 1, ground := Ground.phase }, { on := 2, ground := Ground.phase }, { on := 3, ground := Ground.phase }, { on := 4, ground := Ground.phase }, { on := 5, ground := Ground.phase }, { on := 6, ground := Ground.phase }, { on := 7, ground := Ground.phase }], guard := none }
def oEB21 : Oper := { dst := none, op := Op.store 23 (Operand.tmp 29) (Operand.tmp 27), type := 0, pos := "extended.go:52", after := #[{ on := 9, ground := Ground.data }, { on := 7, ground := Ground.data }, { on := 7, ground := Ground.chain }, { on := 0, ground := Ground.phase }, { on := 1, ground := Ground.phase }, { on := 2, ground := Ground.phase }, { on := 3, ground := Ground.phase }, { on := 4, ground := Ground.phase }, { on := 5, ground := Ground.phase }, { on := 6, ground := Ground.phase }, { on := 7, ground := Ground.phase }], guard := none }
def oEB22 : Oper := { dst := some 30, op := Op.move (Operand.tmp 0), type := 80, pos := "extended.go:53", after := #[], guard := none }
def oEB23 : Oper := { dst := some 31, op := Op.move (Operand.tmp 2), type := 62, pos := "extended.go:53", after := #[], guard := none }
def oEB24 : Oper := { dst := some 32, op := Op.nilCheck (Operand.tmp 31), type := 0, pos := "extended.go:53", after := #[{ on := 1, ground := Ground.data }], guard := none }
def oEB25 : Oper := { dst := some 33, op := Op.load 23 (Operand.tmp 32), type := 23, pos := "extended.go:53", after := #[{ on := 2, ground := Ground.data }], guard := none }
def oEB26 : Oper := { dst := some 34, op := Op.move (Operand.tmp 4), type := 62, pos := "extended.go:53", after := #[], guard := none }
def oEB27 : Oper := { dst := some 35, op := Op.nilCheck (Operand.tmp 34), type := 0, pos := "extended.go:53", after := #[{ on := 4, ground := Ground.data }], guard := none }
def oEB28 : Oper := { dst := some 36, op := Op.load 23 (Operand.tmp 35), type := 23, pos := "extended.go:53", after := #[{ on := 5, ground := Ground.data }], guard := none }
def oEB29 : Oper := { dst := some 37, op := Op.call { callee := Callee.value (Operand.func 25), args := #[Operand.tmp 33, Operand.tmp 36], argTypes := #[23, 23] }, type := 23, pos := "extended.go:53", after := #[{ on := 3, ground := Ground.data }, { on := 6, ground := Ground.data }], guard := none }
def oEB30 : Oper := { dst := some 38, op := Op.nilCheck (Operand.tmp 30), type := 0, pos := "extended.go:53", after := #[{ on := 0, ground := Ground.data }, { on := 0, ground := Ground.phase }, { on := 1, ground := Ground.phase }, { on := 2, ground := Ground.phase }, { on := 3, ground := Ground.phase }, { on := 4, ground := Ground.phase }, { on := 5, ground := Ground.phase }, { on := 6, ground := Ground.phase }, { on := 7, ground := Ground.phase }], guard := none }
def oEB31 : Oper := { dst := some 39, op := Op.fieldAddr 76 (Operand.tmp 38) 2, type := 0, pos := "extended.go:53", after := #[{ on := 8, ground := Ground.data }, { on := 0, ground := Ground.phase }, { on := 1, ground := Ground.phase }, { on := 2, ground := Ground.phase }, { on := 3, ground := Ground.phase }, { on := 4, ground := Ground.phase }, { on := 5, ground := Ground.phase }, { on := 6, ground := Ground.phase }, { on := 7, ground := Ground.phase }], guard := none }
def oEB32 : Oper := { dst := none, op := Op.store 23 (Operand.tmp 39) (Operand.tmp 37), type := 0, pos := "extended.go:53", after := #[{ on := 9, ground := Ground.data }, { on := 7, ground := Ground.data }, { on := 7, ground := Ground.chain }, { on := 0, ground := Ground.phase }, { on := 1, ground := Ground.phase }, { on := 2, ground := Ground.phase }, { on := 3, ground := Ground.phase }, { on := 4, ground := Ground.phase }, { on := 5, ground := Ground.phase }, { on := 6, ground := Ground.phase }, { on := 7, ground := Ground.phase }], guard := none }
def oEB33 : Oper := { dst := some 40, op := Op.move (Operand.tmp 0), type := 80, pos := "extended.go:54", after := #[], guard := none }
def oEB34 : Oper := { dst := some 41, op := Op.move (Operand.tmp 1), type := 62, pos := "extended.go:54", after := #[], guard := none }
def oEB35 : Oper := { dst := some 42, op := Op.nilCheck (Operand.tmp 41), type := 0, pos := "extended.go:54", after := #[{ on := 1, ground := Ground.data }], guard := none }
def oEB36 : Oper := { dst := some 43, op := Op.load 23 (Operand.tmp 42), type := 23, pos := "extended.go:54", after := #[{ on := 2, ground := Ground.data }], guard := none }
def oEB37 : Oper := { dst := some 44, op := Op.move (Operand.tmp 3), type := 62, pos := "extended.go:54", after := #[], guard := none }
def oEB38 : Oper := { dst := some 45, op := Op.nilCheck (Operand.tmp 44), type := 0, pos := "extended.go:54", after := #[{ on := 4, ground := Ground.data }], guard := none }
def oEB39 : Oper := { dst := some 46, op := Op.load 23 (Operand.tmp 45), type := 23, pos := "extended.go:54", after := #[{ on := 5, ground := Ground.data }], guard := none }
def oEB40 : Oper := { dst := some 47, op := Op.call { callee := Callee.value (Operand.func 25), args := #[Operand.tmp 43, Operand.tmp 46], argTypes := #[23, 23] }, type := 23, pos := "extended.go:54", after := #[{ on := 3, ground := Ground.data }, { on := 6, ground := Ground.data }], guard := none }
def oEB41 : Oper := { dst := some 48, op := Op.nilCheck (Operand.tmp 40), type := 0, pos := "extended.go:54", after := #[{ on := 0, ground := Ground.data }, { on := 0, ground := Ground.phase }, { on := 1, ground := Ground.phase }, { on := 2, ground := Ground.phase }, { on := 3, ground := Ground.phase }, { on := 4, ground := Ground.phase }, { on := 5, ground := Ground.phase }, { on := 6, ground := Ground.phase }, { on := 7, ground := Ground.phase }], guard := none }
def oEB42 : Oper := { dst := some 49, op := Op.fieldAddr 76 (Operand.tmp 48) 3, type := 0, pos := "extended.go:54", after := #[{ on := 8, ground := Ground.data }, { on := 0, ground := Ground.phase }, { on := 1, ground := Ground.phase }, { on := 2, ground := Ground.phase }, { on := 3, ground := Ground.phase }, { on := 4, ground := Ground.phase }, { on := 5, ground := Ground.phase }, { on := 6, ground := Ground.phase }, { on := 7, ground := Ground.phase }], guard := none }
def oEB43 : Oper := { dst := none, op := Op.store 23 (Operand.tmp 49) (Operand.tmp 47), type := 0, pos := "extended.go:54", after := #[{ on := 9, ground := Ground.data }, { on := 7, ground := Ground.data }, { on := 7, ground := Ground.chain }, { on := 0, ground := Ground.phase }, { on := 1, ground := Ground.phase }, { on := 2, ground := Ground.phase }, { on := 3, ground := Ground.phase }, { on := 4, ground := Ground.phase }, { on := 5, ground := Ground.phase }, { on := 6, ground := Ground.phase }, { on := 7, ground := Ground.phase }], guard := none }
def oEB44 : Oper := { dst := some 4, op := Op.move (Operand.tmp 0), type := 80, pos := "extended.go:16", after := #[], guard := none }
def oEB45 : Oper := { dst := some 5, op := Op.move (Operand.tmp 0), type := 80, pos := "extended.go:16", after := #[{ on := 14, ground := Ground.gcOnly Departure.lateStores }], guard := none }
def oEB46 : Oper := { dst := some 6, op := Op.move (Operand.tmp 0), type := 80, pos := "extended.go:16", after := #[{ on := 17, ground := Ground.gcOnly Departure.lateStores }], guard := none }
def oEB47 : Oper := { dst := some 7, op := Op.move (Operand.tmp 1), type := 78, pos := "extended.go:16", after := #[], guard := none }
def oEB48 : Oper := { dst := some 8, op := Op.nilCheck (Operand.tmp 7), type := 0, pos := "extended.go:16", after := #[{ on := 3, ground := Ground.data }], guard := none }
def oEB49 : Oper := { dst := some 9, op := Op.fieldAddr 35 (Operand.tmp 8) 0, type := 0, pos := "extended.go:16", after := #[{ on := 4, ground := Ground.data }], guard := none }
def oEB50 : Oper := { dst := some 10, op := Op.load 23 (Operand.tmp 9), type := 23, pos := "extended.go:16", after := #[{ on := 5, ground := Ground.data }], guard := none }
def oEB51 : Oper := { dst := some 11, op := Op.move (Operand.tmp 1), type := 78, pos := "extended.go:16", after := #[], guard := none }
def oEB52 : Oper := { dst := some 12, op := Op.nilCheck (Operand.tmp 11), type := 0, pos := "extended.go:16", after := #[{ on := 7, ground := Ground.data }], guard := none }
def oEB53 : Oper := { dst := some 13, op := Op.fieldAddr 35 (Operand.tmp 12) 1, type := 0, pos := "extended.go:16", after := #[{ on := 8, ground := Ground.data }], guard := none }
def oEB54 : Oper := { dst := some 14, op := Op.load 23 (Operand.tmp 13), type := 23, pos := "extended.go:16", after := #[{ on := 9, ground := Ground.data }], guard := none }
def oEB55 : Oper := { dst := some 15, op := Op.call { callee := Callee.value (Operand.func 17), args := #[Operand.const (Value.int IntKind.u64 1)], argTypes := #[24] }, type := 23, pos := "extended.go:16", after := #[], guard := none }
def oEB56 : Oper := { dst := some 16, op := Op.nilCheck (Operand.tmp 4), type := 0, pos := "extended.go:16", after := #[{ on := 0, ground := Ground.data }, { on := 0, ground := Ground.phase }, { on := 1, ground := Ground.textOnly Departure.lateStores }, { on := 2, ground := Ground.textOnly Departure.lateStores }, { on := 3, ground := Ground.phase }, { on := 4, ground := Ground.phase }, { on := 5, ground := Ground.phase }, { on := 6, ground := Ground.phase }, { on := 7, ground := Ground.textOnly Departure.lateStores }, { on := 8, ground := Ground.textOnly Departure.lateStoresUnsure }, { on := 9, ground := Ground.textOnly Departure.lateStoresUnsure }, { on := 10, ground := Ground.phase }, { on := 11, ground := Ground.phase }], guard := none }
def oEB57 : Oper := { dst := some 17, op := Op.fieldAddr 76 (Operand.tmp 16) 0, type := 0, pos := "extended.go:16", after := #[{ on := 12, ground := Ground.data }, { on := 0, ground := Ground.phase }, { on := 1, ground := Ground.textOnly Departure.lateStores }, { on := 2, ground := Ground.textOnly Departure.lateStores }, { on := 3, ground := Ground.phase }, { on := 4, ground := Ground.phase }, { on := 5, ground := Ground.phase }, { on := 6, ground := Ground.phase }, { on := 7, ground := Ground.textOnly Departure.lateStores }, { on := 8, ground := Ground.textOnly Departure.lateStoresUnsure }, { on := 9, ground := Ground.textOnly Departure.lateStoresUnsure }, { on := 10, ground := Ground.phase }, { on := 11, ground := Ground.phase }], guard := none }
def oEB58 : Oper := { dst := none, op := Op.store 23 (Operand.tmp 17) (Operand.tmp 10), type := 0, pos := "extended.go:16", after := #[{ on := 13, ground := Ground.data }, { on := 6, ground := Ground.data }, { on := 11, ground := Ground.chain }, { on := 0, ground := Ground.phase }, { on := 1, ground := Ground.textOnly Departure.lateStores }, { on := 2, ground := Ground.textOnly Departure.lateStores }, { on := 3, ground := Ground.phase }, { on := 4, ground := Ground.phase }, { on := 5, ground := Ground.phase }, { on := 6, ground := Ground.phase }, { on := 7, ground := Ground.textOnly Departure.lateStores }, { on := 8, ground := Ground.textOnly Departure.lateStoresUnsure }, { on := 9, ground := Ground.textOnly Departure.lateStoresUnsure }, { on := 10, ground := Ground.phase }, { on := 11, ground := Ground.phase }], guard := none }
def oEB59 : Oper := { dst := some 18, op := Op.nilCheck (Operand.tmp 5), type := 0, pos := "extended.go:16", after := #[{ on := 1, ground := Ground.data }, { on := 0, ground := Ground.phase }, { on := 1, ground := Ground.phase }, { on := 2, ground := Ground.textOnly Departure.lateStores }, { on := 3, ground := Ground.phase }, { on := 4, ground := Ground.phase }, { on := 5, ground := Ground.phase }, { on := 6, ground := Ground.phase }, { on := 7, ground := Ground.phase }, { on := 8, ground := Ground.phase }, { on := 9, ground := Ground.phase }, { on := 10, ground := Ground.phase }, { on := 11, ground := Ground.phase }, { on := 12, ground := Ground.phase }, { on := 13, ground := Ground.phase }, { on := 14, ground := Ground.phase }], guard := none }
def oEB60 : Oper := { dst := some 19, op := Op.fieldAddr 76 (Operand.tmp 18) 1, type := 0, pos := "extended.go:16", after := #[{ on := 15, ground := Ground.data }, { on := 0, ground := Ground.phase }, { on := 1, ground := Ground.phase }, { on := 2, ground := Ground.textOnly Departure.lateStores }, { on := 3, ground := Ground.phase }, { on := 4, ground := Ground.phase }, { on := 5, ground := Ground.phase }, { on := 6, ground := Ground.phase }, { on := 7, ground := Ground.phase }, { on := 8, ground := Ground.phase }, { on := 9, ground := Ground.phase }, { on := 10, ground := Ground.phase }, { on := 11, ground := Ground.phase }, { on := 12, ground := Ground.phase }, { on := 13, ground := Ground.phase }, { on := 14, ground := Ground.phase }], guard := none }
def oEB61 : Oper := { dst := none, op := Op.store 23 (Operand.tmp 19) (Operand.tmp 14), type := 0, pos := "extended.go:16", after := #[{ on := 16, ground := Ground.data }, { on := 10, ground := Ground.data }, { on := 14, ground := Ground.chain }, { on := 0, ground := Ground.phase }, { on := 1, ground := Ground.phase }, { on := 2, ground := Ground.textOnly Departure.lateStores }, { on := 3, ground := Ground.phase }, { on := 4, ground := Ground.phase }, { on := 5, ground := Ground.phase }, { on := 6, ground := Ground.phase }, { on := 7, ground := Ground.phase }, { on := 8, ground := Ground.phase }, { on := 9, ground := Ground.phase }, { on := 10, ground := Ground.phase }, { on := 11, ground := Ground.phase }, { on := 12, ground := Ground.phase }, { on := 13, ground := Ground.phase }, { on := 14, ground := Ground.phase }], guard := none }
def oEB62 : Oper := { dst := some 20, op := Op.nilCheck (Operand.tmp 6), type := 0, pos := "extended.go:16", after := #[{ on := 2, ground := Ground.data }, { on := 0, ground := Ground.phase }, { on := 1, ground := Ground.phase }, { on := 2, ground := Ground.phase }, { on := 3, ground := Ground.phase }, { on := 4, ground := Ground.phase }, { on := 5, ground := Ground.phase }, { on := 6, ground := Ground.phase }, { on := 7, ground := Ground.phase }, { on := 8, ground := Ground.phase }, { on := 9, ground := Ground.phase }, { on := 10, ground := Ground.phase }, { on := 11, ground := Ground.phase }, { on := 12, ground := Ground.phase }, { on := 13, ground := Ground.phase }, { on := 14, ground := Ground.phase }, { on := 15, ground := Ground.phase }, { on := 16, ground := Ground.phase }, { on := 17, ground := Ground.phase }], guard := none }
def oEB63 : Oper := { dst := some 21, op := Op.fieldAddr 76 (Operand.tmp 20) 2, type := 0, pos := "extended.go:16", after := #[{ on := 18, ground := Ground.data }, { on := 0, ground := Ground.phase }, { on := 1, ground := Ground.phase }, { on := 2, ground := Ground.phase }, { on := 3, ground := Ground.phase }, { on := 4, ground := Ground.phase }, { on := 5, ground := Ground.phase }, { on := 6, ground := Ground.phase }, { on := 7, ground := Ground.phase }, { on := 8, ground := Ground.phase }, { on := 9, ground := Ground.phase }, { on := 10, ground := Ground.phase }, { on := 11, ground := Ground.phase }, { on := 12, ground := Ground.phase }, { on := 13, ground := Ground.phase }, { on := 14, ground := Ground.phase }, { on := 15, ground := Ground.phase }, { on := 16, ground := Ground.phase }, { on := 17, ground := Ground.phase }], guard := none }
def oEB64 : Oper := { dst := none, op := Op.store 23 (Operand.tmp 21) (Operand.tmp 15), type := 0, pos := "extended.go:16", after := #[{ on := 19, ground := Ground.data }, { on := 11, ground := Ground.data }, { on := 17, ground := Ground.chain }, { on := 0, ground := Ground.phase }, { on := 1, ground := Ground.phase }, { on := 2, ground := Ground.phase }, { on := 3, ground := Ground.phase }, { on := 4, ground := Ground.phase }, { on := 5, ground := Ground.phase }, { on := 6, ground := Ground.phase }, { on := 7, ground := Ground.phase }, { on := 8, ground := Ground.phase }, { on := 9, ground := Ground.phase }, { on := 10, ground := Ground.phase }, { on := 11, ground := Ground.phase }, { on := 12, ground := Ground.phase }, { on := 13, ground := Ground.phase }, { on := 14, ground := Ground.phase }, { on := 15, ground := Ground.phase }, { on := 16, ground := Ground.phase }, { on := 17, ground := Ground.phase }], guard := none }
def oEB65 : Oper := { dst := some 22, op := Op.move (Operand.tmp 0), type := 80, pos := "extended.go:17", after := #[], guard := none }
def oEB66 : Oper := { dst := some 23, op := Op.move (Operand.tmp 1), type := 78, pos := "extended.go:17", after := #[], guard := none }
def oEB67 : Oper := { dst := some 24, op := Op.nilCheck (Operand.tmp 23), type := 0, pos := "extended.go:17", after := #[{ on := 1, ground := Ground.data }], guard := none }
def oEB68 : Oper := { dst := some 25, op := Op.fieldAddr 35 (Operand.tmp 24) 0, type := 0, pos := "extended.go:17", after := #[{ on := 2, ground := Ground.data }], guard := none }
def oEB69 : Oper := { dst := some 26, op := Op.load 23 (Operand.tmp 25), type := 23, pos := "extended.go:17", after := #[{ on := 3, ground := Ground.data }], guard := none }
def oEB70 : Oper := { dst := some 27, op := Op.move (Operand.tmp 1), type := 78, pos := "extended.go:17", after := #[], guard := none }
def oEB71 : Oper := { dst := some 28, op := Op.nilCheck (Operand.tmp 27), type := 0, pos := "extended.go:17", after := #[{ on := 5, ground := Ground.data }], guard := none }
def oEB72 : Oper := { dst := some 29, op := Op.fieldAddr 35 (Operand.tmp 28) 1, type := 0, pos := "extended.go:17", after := #[{ on := 6, ground := Ground.data }], guard := none }
def oEB73 : Oper := { dst := some 30, op := Op.load 23 (Operand.tmp 29), type := 23, pos := "extended.go:17", after := #[{ on := 7, ground := Ground.data }], guard := none }
def oEB74 : Oper := { dst := some 31, op := Op.call { callee := Callee.value (Operand.func 25), args := #[Operand.tmp 26, Operand.tmp 30], argTypes := #[23, 23] }, type := 23, pos := "extended.go:17", after := #[{ on := 4, ground := Ground.data }, { on := 8, ground := Ground.data }], guard := none }
def oEB75 : Oper := { dst := some 32, op := Op.nilCheck (Operand.tmp 22), type := 0, pos := "extended.go:17", after := #[{ on := 0, ground := Ground.data }, { on := 0, ground := Ground.phase }, { on := 1, ground := Ground.phase }, { on := 2, ground := Ground.phase }, { on := 3, ground := Ground.phase }, { on := 4, ground := Ground.phase }, { on := 5, ground := Ground.phase }, { on := 6, ground := Ground.phase }, { on := 7, ground := Ground.phase }, { on := 8, ground := Ground.phase }, { on := 9, ground := Ground.phase }], guard := none }
def oEB76 : Oper := { dst := some 33, op := Op.fieldAddr 76 (Operand.tmp 32) 3, type := 0, pos := "extended.go:17", after := #[{ on := 10, ground := Ground.data }, { on := 0, ground := Ground.phase }, { on := 1, ground := Ground.phase }, { on := 2, ground := Ground.phase }, { on := 3, ground := Ground.phase }, { on := 4, ground := Ground.phase }, { on := 5, ground := Ground.phase }, { on := 6, ground := Ground.phase }, { on := 7, ground := Ground.phase }, { on := 8, ground := Ground.phase }, { on := 9, ground := Ground.phase }], guard := none }
def oEB77 : Oper := { dst := none, op := Op.store 23 (Operand.tmp 33) (Operand.tmp 31), type := 0, pos := "extended.go:17", after := #[{ on := 11, ground := Ground.data }, { on := 9, ground := Ground.data }, { on := 9, ground := Ground.chain }, { on := 0, ground := Ground.phase }, { on := 1, ground := Ground.phase }, { on := 2, ground := Ground.phase }, { on := 3, ground := Ground.phase }, { on := 4, ground := Ground.phase }, { on := 5, ground := Ground.phase }, { on := 6, ground := Ground.phase }, { on := 7, ground := Ground.phase }, { on := 8, ground := Ground.phase }, { on := 9, ground := Ground.phase }], guard := none }

set_option maxHeartbeats 4000000 in
theorem divide_core (g g1 g2 g3 g4 r0 r1 r2 r3 x ox y oy X Y Z T : Nat) (w : World)
    (H1 : Hid (∀ w, Calls Try.prog 25 #[vN x, vN oy] w (Gives (vN X) w))) (H2 : Hid (∀ w, Calls Try.prog 25 #[vN y, vN ox] w (Gives (vN Y) w)))
    (H3 : Hid (∀ w, Calls Try.prog 25 #[vN ox, vN oy] w (Gives (vN Z) w))) (H4 : Hid (∀ w, Calls Try.prog 25 #[vN x, vN y] w (Gives (vN T) w)))
    (RG_0 : Hid (RAt w g [r0, r1, r2, r3])) (RX_0 : Hid (RAt w g1 [x])) (RO_0 : Hid (RAt w g2 [ox])) (RY_0 : Hid (RAt w g3 [y])) (RP_0 : Hid (RAt w g4 [oy]))
    (HN1 : Hid (g ≠ g1)) (HN2 : Hid (g ≠ g2)) (HN3 : Hid (g ≠ g3)) (HN4 : Hid (g ≠ g4)) :
    Calls Try.prog 100 #[.pointer (some ⟨g, 0, none⟩), .pointer (some ⟨g1, 0, none⟩), .pointer (some ⟨g2, 0, none⟩), .pointer (some ⟨g3, 0, none⟩), .pointer (some ⟨g4, 0, none⟩)] w (SetsR g [X, Y, Z, T] w) := by
  have HF_0 : Hid (Keeps (· = g) w w) := Lib.hid (Keeps.refl _ _)
  go_enter Try.func100, Try.ntmps100
  go_wp2_with fail
  have HLT1_0 := lR RG_0
  have HLT1_1 := lR RX_0
  have HLT1_2 := lR RO_0
  have HLT1_3 := lR RY_0
  have HLT1_4 := lR RP_0
  have HLO1 : Hid (w.heap.size ≤ w.heap.size) := Lib.hid HF_0.out.size
  refine region_split (fun a' W => RAt W g [X, r1, r2, r3] ∧ RAt W g1 [x] ∧ RAt W g2 [ox] ∧ RAt W g3 [y] ∧ RAt W g4 [oy] ∧ Keeps (· = g) w W ∧ a' = ⟨#[.pointer (some ⟨g, 0, none⟩), .pointer (some ⟨g1, 0, none⟩), .pointer (some ⟨g2, 0, none⟩), .pointer (some ⟨g3, 0, none⟩), .pointer (some ⟨g4, 0, none⟩), undef, undef, undef, undef, undef, .pointer (some ⟨g, 0, none⟩), .pointer (some ⟨g1, 0, none⟩), .pointer (some ⟨g1, 0, none⟩), vN x, .pointer (some ⟨g4, 0, none⟩), .pointer (some ⟨g4, 0, none⟩), vN oy, vN X, .pointer (some ⟨g, 0, none⟩), .pointer (some ⟨g, 0, none⟩), undef, undef, undef, undef, undef, undef, undef, undef, undef, undef, undef, undef, undef, undef, undef, undef, undef, undef, undef, undef, undef, undef, undef, undef, undef, undef, undef, undef, undef, undef], []⟩) ?_ ?_
  · refine startW (fun j => j == 10) (w.heap.size) (by kernel_rfl) ?_
    obtain ⟨D1, hD1⟩ : ∃ D, D = w.drew := ⟨_, rfl⟩
    rw [← hD1]
    have HL_1 := dLq hD1
    have RG_1 := dRq hD1 RG_0
    have RX_1 := dRq hD1 RX_0
    have RO_1 := dRq hD1 RO_0
    have RY_1 := dRq hD1 RY_0
    have RP_1 := dRq hD1 RP_0
    have HF_1 := dFq hD1 HF_0
    clear hD1 RG_0 RX_0 RO_0 RY_0 RP_0 HF_0
    refine tA (i := 0) (oi := oEB0) ?_
    refine ⟨.pointer (some ⟨g, 0, none⟩), fun w' => exec_move (.tmp 0) rfl _ rfl, ?_⟩
    simp only [oEB0, Act.put, zA, zB, zC]
    refine tA (i := 1) (oi := oEB1) ?_
    refine ⟨.pointer (some ⟨g1, 0, none⟩), fun w' => exec_move (.tmp 1) rfl _ rfl, ?_⟩
    simp only [oEB1, Act.put, zA, zB, zC]
    refine tA (i := 2) (oi := oEB2) ?_
    refine ⟨.pointer (some ⟨g1, 0, none⟩), fun w' => exec_nil (.tmp 11) rfl _ rfl, ?_⟩
    simp only [oEB2, Act.put, zA, zB, zC]
    refine takeT (i := 3) (oi := oEB3) (vN x) rfl (by kernel_rfl) (by kernel_rfl) (by kernel_rfl) (by kernel_rfl) (by kernel_rfl) (fun _ _ _ h => nomatch h.1) (by rfl) (fun w' hk => exec_loadF (.tmp 12) rfl (g1) 0 0 rfl [x] x rfl (RX_1.out.below hk HLT1_1.out) rfl) ?_
    simp only [oEB3, Act.put, zA, zB, zC]
    refine tA (i := 4) (oi := oEB4) ?_
    refine ⟨.pointer (some ⟨g4, 0, none⟩), fun w' => exec_move (.tmp 4) rfl _ rfl, ?_⟩
    simp only [oEB4, Act.put, zA, zB, zC]
    refine tA (i := 5) (oi := oEB5) ?_
    refine ⟨.pointer (some ⟨g4, 0, none⟩), fun w' => exec_nil (.tmp 14) rfl _ rfl, ?_⟩
    simp only [oEB5, Act.put, zA, zB, zC]
    refine takeT (i := 6) (oi := oEB6) (vN oy) rfl (by kernel_rfl) (by kernel_rfl) (by kernel_rfl) (by kernel_rfl) (by kernel_rfl) (fun _ _ _ h => nomatch h.1) (by rfl) (fun w' hk => exec_loadF (.tmp 15) rfl (g4) 0 0 rfl [oy] oy rfl (RP_1.out.below hk HLT1_4.out) rfl) ?_
    simp only [oEB6, Act.put, zA, zB, zC]
    refine callW (i := 7) (oi := oEB7) rfl (by kernel_rfl) (by rfl) (exec_callL 25 [.tmp 13, .tmp 16] #[23, 23] rfl [vN x, vN oy] rfl (CG25 _)) ((H1.out D1).mono ?_)
    rintro e2 W2 ⟨rfl, hb2⟩
    refine ⟨_, rfl, fun _ => hb2.mono HL_1.out, ?_⟩
    have RG_2 := hKq RG_1 hb2
    have RX_2 := hKq RX_1 hb2
    have RO_2 := hKq RO_1 hb2
    have RY_2 := hKq RY_1 hb2
    have RP_2 := hKq RP_1 hb2
    have HF_2 := fCq HF_1 hb2
    have HL_2 := lT HL_1 hb2
    clear hb2 HL_1 RG_1 RX_1 RO_1 RY_1 RP_1 HF_1
    simp only [oEB7, Act.put, zA, zB, zC]
    refine tA (i := 8) (oi := oEB8) ?_
    refine ⟨.pointer (some ⟨g, 0, none⟩), fun w' => exec_nil (.tmp 10) rfl _ rfl, ?_⟩
    simp only [oEB8, Act.put, zA, zB, zC]
    refine tA (i := 9) (oi := oEB9) ?_
    refine ⟨.pointer (some ⟨g, 0, none⟩), fun w' => exec_field 76 (.tmp 18) 0 rfl _ 0 rfl (fld76_0 _), ?_⟩
    simp only [oEB9, Act.put, zA, zB, zC]
    refine storeW_F (i := 10) (oi := oEB10) rfl (by kernel_rfl) (by rfl) (.tmp 19) (.tmp 17) rfl (g) 0 0 rfl [r0, r1, r2, r3] X rfl rfl RG_2.out (show 0 < 4 by omega) rfl ?_
    intro W3 hr3 hg3 hz3
    simp only [oEB10, Act.put, zA, zB, zC]
    have RG_3 : Hid (RAt W3 g [X, r1, r2, r3]) := Lib.hid hr3
    have RX_3 := hGq RX_2 hg3 HN1
    have RO_3 := hGq RO_2 hg3 HN2
    have RY_3 := hGq RY_2 hg3 HN3
    have RP_3 := hGq RP_2 hg3 HN4
    have HF_3 : Hid (Keeps (· = g) w W3) := Lib.hid (HF_2.out.ownrow hg3)
    have HL_3 := lG HL_2 hg3
    clear hr3 hg3 hz3 HL_2 RG_2 RX_2 RO_2 RY_2 RP_2 HF_2
    refine doneW (by kernel_rfl) ⟨rfl, ?_⟩ _
    exact ⟨RG_3.out, RX_3.out, RO_3.out, RY_3.out, RP_3.out, HF_3.out, rfl⟩
  rintro a' v4 ⟨h0, h1, h2, h3, h4, hF, rfl⟩
  have RG_4 := Lib.hid h0
  have RX_4 := Lib.hid h1
  have RO_4 := Lib.hid h2
  have RY_4 := Lib.hid h3
  have RP_4 := Lib.hid h4
  have HF_4 := Lib.hid hF
  clear h0 h1 h2 h3 h4 hF HLT1_0 HLT1_1 HLT1_2 HLT1_3 HLT1_4 HLO1 RG_0 RX_0 RO_0 RY_0 RP_0 HF_0
  go_wp2_with fail
  have HLT5_0 := lR RG_4
  have HLT5_1 := lR RX_4
  have HLT5_2 := lR RO_4
  have HLT5_3 := lR RY_4
  have HLT5_4 := lR RP_4
  have HLO5 : Hid (w.heap.size ≤ v4.heap.size) := Lib.hid HF_4.out.size
  refine region_split (fun a' W => RAt W g [X, Y, r2, r3] ∧ RAt W g1 [x] ∧ RAt W g2 [ox] ∧ RAt W g3 [y] ∧ RAt W g4 [oy] ∧ Keeps (· = g) w W ∧ a' = ⟨#[.pointer (some ⟨g, 0, none⟩), .pointer (some ⟨g1, 0, none⟩), .pointer (some ⟨g2, 0, none⟩), .pointer (some ⟨g3, 0, none⟩), .pointer (some ⟨g4, 0, none⟩), undef, undef, undef, undef, undef, .pointer (some ⟨g, 0, none⟩), .pointer (some ⟨g1, 0, none⟩), .pointer (some ⟨g1, 0, none⟩), vN x, .pointer (some ⟨g4, 0, none⟩), .pointer (some ⟨g4, 0, none⟩), vN oy, vN X, .pointer (some ⟨g, 0, none⟩), .pointer (some ⟨g, 0, none⟩), .pointer (some ⟨g, 0, none⟩), .pointer (some ⟨g3, 0, none⟩), .pointer (some ⟨g3, 0, none⟩), vN y, .pointer (some ⟨g2, 0, none⟩), .pointer (some ⟨g2, 0, none⟩), vN ox, vN Y, .pointer (some ⟨g, 0, none⟩), .pointer (some ⟨g, 32, none⟩), undef, undef, undef, undef, undef, undef, undef, undef, undef, undef, undef, undef, undef, undef, undef, undef, undef, undef, undef, undef], []⟩) ?_ ?_
  · refine startW (fun j => j == 10) (v4.heap.size) (by kernel_rfl) ?_
    obtain ⟨D5, hD5⟩ : ∃ D, D = v4.drew := ⟨_, rfl⟩
    rw [← hD5]
    have HL_5 := dLq hD5
    have RG_5 := dRq hD5 RG_4
    have RX_5 := dRq hD5 RX_4
    have RO_5 := dRq hD5 RO_4
    have RY_5 := dRq hD5 RY_4
    have RP_5 := dRq hD5 RP_4
    have HF_5 := dFq hD5 HF_4
    clear hD5 RG_4 RX_4 RO_4 RY_4 RP_4 HF_4
    refine tA (i := 0) (oi := oEB11) ?_
    refine ⟨.pointer (some ⟨g, 0, none⟩), fun w' => exec_move (.tmp 0) rfl _ rfl, ?_⟩
    simp only [oEB11, Act.put, zA, zB, zC]
    refine tA (i := 1) (oi := oEB12) ?_
    refine ⟨.pointer (some ⟨g3, 0, none⟩), fun w' => exec_move (.tmp 3) rfl _ rfl, ?_⟩
    simp only [oEB12, Act.put, zA, zB, zC]
    refine tA (i := 2) (oi := oEB13) ?_
    refine ⟨.pointer (some ⟨g3, 0, none⟩), fun w' => exec_nil (.tmp 21) rfl _ rfl, ?_⟩
    simp only [oEB13, Act.put, zA, zB, zC]
    refine takeT (i := 3) (oi := oEB14) (vN y) rfl (by kernel_rfl) (by kernel_rfl) (by kernel_rfl) (by kernel_rfl) (by kernel_rfl) (fun _ _ _ h => nomatch h.1) (by rfl) (fun w' hk => exec_loadF (.tmp 22) rfl (g3) 0 0 rfl [y] y rfl (RY_5.out.below hk HLT5_3.out) rfl) ?_
    simp only [oEB14, Act.put, zA, zB, zC]
    refine tA (i := 4) (oi := oEB15) ?_
    refine ⟨.pointer (some ⟨g2, 0, none⟩), fun w' => exec_move (.tmp 2) rfl _ rfl, ?_⟩
    simp only [oEB15, Act.put, zA, zB, zC]
    refine tA (i := 5) (oi := oEB16) ?_
    refine ⟨.pointer (some ⟨g2, 0, none⟩), fun w' => exec_nil (.tmp 24) rfl _ rfl, ?_⟩
    simp only [oEB16, Act.put, zA, zB, zC]
    refine takeT (i := 6) (oi := oEB17) (vN ox) rfl (by kernel_rfl) (by kernel_rfl) (by kernel_rfl) (by kernel_rfl) (by kernel_rfl) (fun _ _ _ h => nomatch h.1) (by rfl) (fun w' hk => exec_loadF (.tmp 25) rfl (g2) 0 0 rfl [ox] ox rfl (RO_5.out.below hk HLT5_2.out) rfl) ?_
    simp only [oEB17, Act.put, zA, zB, zC]
    refine callW (i := 7) (oi := oEB18) rfl (by kernel_rfl) (by rfl) (exec_callL 25 [.tmp 23, .tmp 26] #[23, 23] rfl [vN y, vN ox] rfl (CG25 _)) ((H2.out D5).mono ?_)
    rintro e6 W6 ⟨rfl, hb6⟩
    refine ⟨_, rfl, fun _ => hb6.mono HL_5.out, ?_⟩
    have RG_6 := hKq RG_5 hb6
    have RX_6 := hKq RX_5 hb6
    have RO_6 := hKq RO_5 hb6
    have RY_6 := hKq RY_5 hb6
    have RP_6 := hKq RP_5 hb6
    have HF_6 := fCq HF_5 hb6
    have HL_6 := lT HL_5 hb6
    clear hb6 HL_5 RG_5 RX_5 RO_5 RY_5 RP_5 HF_5
    simp only [oEB18, Act.put, zA, zB, zC]
    refine tA (i := 8) (oi := oEB19) ?_
    refine ⟨.pointer (some ⟨g, 0, none⟩), fun w' => exec_nil (.tmp 20) rfl _ rfl, ?_⟩
    simp only [oEB19, Act.put, zA, zB, zC]
    refine tA (i := 9) (oi := oEB20) ?_
    refine ⟨.pointer (some ⟨g, 32, none⟩), fun w' => exec_field 76 (.tmp 28) 1 rfl _ 32 rfl (fld76_1 _), ?_⟩
    simp only [oEB20, Act.put, zA, zB, zC]
    refine storeW_F (i := 10) (oi := oEB21) rfl (by kernel_rfl) (by rfl) (.tmp 29) (.tmp 27) rfl (g) 1 32 rfl [X, r1, r2, r3] Y rfl rfl RG_6.out (show 1 < 4 by omega) rfl ?_
    intro W7 hr7 hg7 hz7
    simp only [oEB21, Act.put, zA, zB, zC]
    have RG_7 : Hid (RAt W7 g [X, Y, r2, r3]) := Lib.hid hr7
    have RX_7 := hGq RX_6 hg7 HN1
    have RO_7 := hGq RO_6 hg7 HN2
    have RY_7 := hGq RY_6 hg7 HN3
    have RP_7 := hGq RP_6 hg7 HN4
    have HF_7 : Hid (Keeps (· = g) w W7) := Lib.hid (HF_6.out.ownrow hg7)
    have HL_7 := lG HL_6 hg7
    clear hr7 hg7 hz7 HL_6 RG_6 RX_6 RO_6 RY_6 RP_6 HF_6
    refine doneW (by kernel_rfl) ⟨rfl, ?_⟩ _
    exact ⟨RG_7.out, RX_7.out, RO_7.out, RY_7.out, RP_7.out, HF_7.out, rfl⟩
  rintro a' v8 ⟨h0, h1, h2, h3, h4, hF, rfl⟩
  have RG_8 := Lib.hid h0
  have RX_8 := Lib.hid h1
  have RO_8 := Lib.hid h2
  have RY_8 := Lib.hid h3
  have RP_8 := Lib.hid h4
  have HF_8 := Lib.hid hF
  clear h0 h1 h2 h3 h4 hF HLT5_0 HLT5_1 HLT5_2 HLT5_3 HLT5_4 HLO5 RG_4 RX_4 RO_4 RY_4 RP_4 HF_4
  go_wp2_with fail
  have HLT9_0 := lR RG_8
  have HLT9_1 := lR RX_8
  have HLT9_2 := lR RO_8
  have HLT9_3 := lR RY_8
  have HLT9_4 := lR RP_8
  have HLO9 : Hid (w.heap.size ≤ v8.heap.size) := Lib.hid HF_8.out.size
  refine region_split (fun a' W => RAt W g [X, Y, Z, r3] ∧ RAt W g1 [x] ∧ RAt W g2 [ox] ∧ RAt W g3 [y] ∧ RAt W g4 [oy] ∧ Keeps (· = g) w W ∧ a' = ⟨#[.pointer (some ⟨g, 0, none⟩), .pointer (some ⟨g1, 0, none⟩), .pointer (some ⟨g2, 0, none⟩), .pointer (some ⟨g3, 0, none⟩), .pointer (some ⟨g4, 0, none⟩), undef, undef, undef, undef, undef, .pointer (some ⟨g, 0, none⟩), .pointer (some ⟨g1, 0, none⟩), .pointer (some ⟨g1, 0, none⟩), vN x, .pointer (some ⟨g4, 0, none⟩), .pointer (some ⟨g4, 0, none⟩), vN oy, vN X, .pointer (some ⟨g, 0, none⟩), .pointer (some ⟨g, 0, none⟩), .pointer (some ⟨g, 0, none⟩), .pointer (some ⟨g3, 0, none⟩), .pointer (some ⟨g3, 0, none⟩), vN y, .pointer (some ⟨g2, 0, none⟩), .pointer (some ⟨g2, 0, none⟩), vN ox, vN Y, .pointer (some ⟨g, 0, none⟩), .pointer (some ⟨g, 32, none⟩), .pointer (some ⟨g, 0, none⟩), .pointer (some ⟨g2, 0, none⟩), .pointer (some ⟨g2, 0, none⟩), vN ox, .pointer (some ⟨g4, 0, none⟩), .pointer (some ⟨g4, 0, none⟩), vN oy, vN Z, .pointer (some ⟨g, 0, none⟩), .pointer (some ⟨g, 64, none⟩), undef, undef, undef, undef, undef, undef, undef, undef, undef, undef], []⟩) ?_ ?_
  · refine startW (fun j => j == 10) (v8.heap.size) (by kernel_rfl) ?_
    obtain ⟨D9, hD9⟩ : ∃ D, D = v8.drew := ⟨_, rfl⟩
    rw [← hD9]
    have HL_9 := dLq hD9
    have RG_9 := dRq hD9 RG_8
    have RX_9 := dRq hD9 RX_8
    have RO_9 := dRq hD9 RO_8
    have RY_9 := dRq hD9 RY_8
    have RP_9 := dRq hD9 RP_8
    have HF_9 := dFq hD9 HF_8
    clear hD9 RG_8 RX_8 RO_8 RY_8 RP_8 HF_8
    refine tA (i := 0) (oi := oEB22) ?_
    refine ⟨.pointer (some ⟨g, 0, none⟩), fun w' => exec_move (.tmp 0) rfl _ rfl, ?_⟩
    simp only [oEB22, Act.put, zA, zB, zC]
    refine tA (i := 1) (oi := oEB23) ?_
    refine ⟨.pointer (some ⟨g2, 0, none⟩), fun w' => exec_move (.tmp 2) rfl _ rfl, ?_⟩
    simp only [oEB23, Act.put, zA, zB, zC]
    refine tA (i := 2) (oi := oEB24) ?_
    refine ⟨.pointer (some ⟨g2, 0, none⟩), fun w' => exec_nil (.tmp 31) rfl _ rfl, ?_⟩
    simp only [oEB24, Act.put, zA, zB, zC]
    refine takeT (i := 3) (oi := oEB25) (vN ox) rfl (by kernel_rfl) (by kernel_rfl) (by kernel_rfl) (by kernel_rfl) (by kernel_rfl) (fun _ _ _ h => nomatch h.1) (by rfl) (fun w' hk => exec_loadF (.tmp 32) rfl (g2) 0 0 rfl [ox] ox rfl (RO_9.out.below hk HLT9_2.out) rfl) ?_
    simp only [oEB25, Act.put, zA, zB, zC]
    refine tA (i := 4) (oi := oEB26) ?_
    refine ⟨.pointer (some ⟨g4, 0, none⟩), fun w' => exec_move (.tmp 4) rfl _ rfl, ?_⟩
    simp only [oEB26, Act.put, zA, zB, zC]
    refine tA (i := 5) (oi := oEB27) ?_
    refine ⟨.pointer (some ⟨g4, 0, none⟩), fun w' => exec_nil (.tmp 34) rfl _ rfl, ?_⟩
    simp only [oEB27, Act.put, zA, zB, zC]
    refine takeT (i := 6) (oi := oEB28) (vN oy) rfl (by kernel_rfl) (by kernel_rfl) (by kernel_rfl) (by kernel_rfl) (by kernel_rfl) (fun _ _ _ h => nomatch h.1) (by rfl) (fun w' hk => exec_loadF (.tmp 35) rfl (g4) 0 0 rfl [oy] oy rfl (RP_9.out.below hk HLT9_4.out) rfl) ?_
    simp only [oEB28, Act.put, zA, zB, zC]
    refine callW (i := 7) (oi := oEB29) rfl (by kernel_rfl) (by rfl) (exec_callL 25 [.tmp 33, .tmp 36] #[23, 23] rfl [vN ox, vN oy] rfl (CG25 _)) ((H3.out D9).mono ?_)
    rintro e10 W10 ⟨rfl, hb10⟩
    refine ⟨_, rfl, fun _ => hb10.mono HL_9.out, ?_⟩
    have RG_10 := hKq RG_9 hb10
    have RX_10 := hKq RX_9 hb10
    have RO_10 := hKq RO_9 hb10
    have RY_10 := hKq RY_9 hb10
    have RP_10 := hKq RP_9 hb10
    have HF_10 := fCq HF_9 hb10
    have HL_10 := lT HL_9 hb10
    clear hb10 HL_9 RG_9 RX_9 RO_9 RY_9 RP_9 HF_9
    simp only [oEB29, Act.put, zA, zB, zC]
    refine tA (i := 8) (oi := oEB30) ?_
    refine ⟨.pointer (some ⟨g, 0, none⟩), fun w' => exec_nil (.tmp 30) rfl _ rfl, ?_⟩
    simp only [oEB30, Act.put, zA, zB, zC]
    refine tA (i := 9) (oi := oEB31) ?_
    refine ⟨.pointer (some ⟨g, 64, none⟩), fun w' => exec_field 76 (.tmp 38) 2 rfl _ 64 rfl (fld76_2 _), ?_⟩
    simp only [oEB31, Act.put, zA, zB, zC]
    refine storeW_F (i := 10) (oi := oEB32) rfl (by kernel_rfl) (by rfl) (.tmp 39) (.tmp 37) rfl (g) 2 64 rfl [X, Y, r2, r3] Z rfl rfl RG_10.out (show 2 < 4 by omega) rfl ?_
    intro W11 hr11 hg11 hz11
    simp only [oEB32, Act.put, zA, zB, zC]
    have RG_11 : Hid (RAt W11 g [X, Y, Z, r3]) := Lib.hid hr11
    have RX_11 := hGq RX_10 hg11 HN1
    have RO_11 := hGq RO_10 hg11 HN2
    have RY_11 := hGq RY_10 hg11 HN3
    have RP_11 := hGq RP_10 hg11 HN4
    have HF_11 : Hid (Keeps (· = g) w W11) := Lib.hid (HF_10.out.ownrow hg11)
    have HL_11 := lG HL_10 hg11
    clear hr11 hg11 hz11 HL_10 RG_10 RX_10 RO_10 RY_10 RP_10 HF_10
    refine doneW (by kernel_rfl) ⟨rfl, ?_⟩ _
    exact ⟨RG_11.out, RX_11.out, RO_11.out, RY_11.out, RP_11.out, HF_11.out, rfl⟩
  rintro a' v12 ⟨h0, h1, h2, h3, h4, hF, rfl⟩
  have RG_12 := Lib.hid h0
  have RX_12 := Lib.hid h1
  have RO_12 := Lib.hid h2
  have RY_12 := Lib.hid h3
  have RP_12 := Lib.hid h4
  have HF_12 := Lib.hid hF
  clear h0 h1 h2 h3 h4 hF HLT9_0 HLT9_1 HLT9_2 HLT9_3 HLT9_4 HLO9 RG_8 RX_8 RO_8 RY_8 RP_8 HF_8
  go_wp2_with fail
  have HLT13_0 := lR RG_12
  have HLT13_1 := lR RX_12
  have HLT13_2 := lR RO_12
  have HLT13_3 := lR RY_12
  have HLT13_4 := lR RP_12
  have HLO13 : Hid (w.heap.size ≤ v12.heap.size) := Lib.hid HF_12.out.size
  refine region_split (fun a' W => RAt W g [X, Y, Z, T] ∧ RAt W g1 [x] ∧ RAt W g2 [ox] ∧ RAt W g3 [y] ∧ RAt W g4 [oy] ∧ Keeps (· = g) w W ∧ a' = ⟨#[.pointer (some ⟨g, 0, none⟩), .pointer (some ⟨g1, 0, none⟩), .pointer (some ⟨g2, 0, none⟩), .pointer (some ⟨g3, 0, none⟩), .pointer (some ⟨g4, 0, none⟩), undef, undef, undef, undef, undef, .pointer (some ⟨g, 0, none⟩), .pointer (some ⟨g1, 0, none⟩), .pointer (some ⟨g1, 0, none⟩), vN x, .pointer (some ⟨g4, 0, none⟩), .pointer (some ⟨g4, 0, none⟩), vN oy, vN X, .pointer (some ⟨g, 0, none⟩), .pointer (some ⟨g, 0, none⟩), .pointer (some ⟨g, 0, none⟩), .pointer (some ⟨g3, 0, none⟩), .pointer (some ⟨g3, 0, none⟩), vN y, .pointer (some ⟨g2, 0, none⟩), .pointer (some ⟨g2, 0, none⟩), vN ox, vN Y, .pointer (some ⟨g, 0, none⟩), .pointer (some ⟨g, 32, none⟩), .pointer (some ⟨g, 0, none⟩), .pointer (some ⟨g2, 0, none⟩), .pointer (some ⟨g2, 0, none⟩), vN ox, .pointer (some ⟨g4, 0, none⟩), .pointer (some ⟨g4, 0, none⟩), vN oy, vN Z, .pointer (some ⟨g, 0, none⟩), .pointer (some ⟨g, 64, none⟩), .pointer (some ⟨g, 0, none⟩), .pointer (some ⟨g1, 0, none⟩), .pointer (some ⟨g1, 0, none⟩), vN x, .pointer (some ⟨g3, 0, none⟩), .pointer (some ⟨g3, 0, none⟩), vN y, vN T, .pointer (some ⟨g, 0, none⟩), .pointer (some ⟨g, 96, none⟩)], []⟩) ?_ ?_
  · refine startW (fun j => j == 10) (v12.heap.size) (by kernel_rfl) ?_
    obtain ⟨D13, hD13⟩ : ∃ D, D = v12.drew := ⟨_, rfl⟩
    rw [← hD13]
    have HL_13 := dLq hD13
    have RG_13 := dRq hD13 RG_12
    have RX_13 := dRq hD13 RX_12
    have RO_13 := dRq hD13 RO_12
    have RY_13 := dRq hD13 RY_12
    have RP_13 := dRq hD13 RP_12
    have HF_13 := dFq hD13 HF_12
    clear hD13 RG_12 RX_12 RO_12 RY_12 RP_12 HF_12
    refine tA (i := 0) (oi := oEB33) ?_
    refine ⟨.pointer (some ⟨g, 0, none⟩), fun w' => exec_move (.tmp 0) rfl _ rfl, ?_⟩
    simp only [oEB33, Act.put, zA, zB, zC]
    refine tA (i := 1) (oi := oEB34) ?_
    refine ⟨.pointer (some ⟨g1, 0, none⟩), fun w' => exec_move (.tmp 1) rfl _ rfl, ?_⟩
    simp only [oEB34, Act.put, zA, zB, zC]
    refine tA (i := 2) (oi := oEB35) ?_
    refine ⟨.pointer (some ⟨g1, 0, none⟩), fun w' => exec_nil (.tmp 41) rfl _ rfl, ?_⟩
    simp only [oEB35, Act.put, zA, zB, zC]
    refine takeT (i := 3) (oi := oEB36) (vN x) rfl (by kernel_rfl) (by kernel_rfl) (by kernel_rfl) (by kernel_rfl) (by kernel_rfl) (fun _ _ _ h => nomatch h.1) (by rfl) (fun w' hk => exec_loadF (.tmp 42) rfl (g1) 0 0 rfl [x] x rfl (RX_13.out.below hk HLT13_1.out) rfl) ?_
    simp only [oEB36, Act.put, zA, zB, zC]
    refine tA (i := 4) (oi := oEB37) ?_
    refine ⟨.pointer (some ⟨g3, 0, none⟩), fun w' => exec_move (.tmp 3) rfl _ rfl, ?_⟩
    simp only [oEB37, Act.put, zA, zB, zC]
    refine tA (i := 5) (oi := oEB38) ?_
    refine ⟨.pointer (some ⟨g3, 0, none⟩), fun w' => exec_nil (.tmp 44) rfl _ rfl, ?_⟩
    simp only [oEB38, Act.put, zA, zB, zC]
    refine takeT (i := 6) (oi := oEB39) (vN y) rfl (by kernel_rfl) (by kernel_rfl) (by kernel_rfl) (by kernel_rfl) (by kernel_rfl) (fun _ _ _ h => nomatch h.1) (by rfl) (fun w' hk => exec_loadF (.tmp 45) rfl (g3) 0 0 rfl [y] y rfl (RY_13.out.below hk HLT13_3.out) rfl) ?_
    simp only [oEB39, Act.put, zA, zB, zC]
    refine callW (i := 7) (oi := oEB40) rfl (by kernel_rfl) (by rfl) (exec_callL 25 [.tmp 43, .tmp 46] #[23, 23] rfl [vN x, vN y] rfl (CG25 _)) ((H4.out D13).mono ?_)
    rintro e14 W14 ⟨rfl, hb14⟩
    refine ⟨_, rfl, fun _ => hb14.mono HL_13.out, ?_⟩
    have RG_14 := hKq RG_13 hb14
    have RX_14 := hKq RX_13 hb14
    have RO_14 := hKq RO_13 hb14
    have RY_14 := hKq RY_13 hb14
    have RP_14 := hKq RP_13 hb14
    have HF_14 := fCq HF_13 hb14
    have HL_14 := lT HL_13 hb14
    clear hb14 HL_13 RG_13 RX_13 RO_13 RY_13 RP_13 HF_13
    simp only [oEB40, Act.put, zA, zB, zC]
    refine tA (i := 8) (oi := oEB41) ?_
    refine ⟨.pointer (some ⟨g, 0, none⟩), fun w' => exec_nil (.tmp 40) rfl _ rfl, ?_⟩
    simp only [oEB41, Act.put, zA, zB, zC]
    refine tA (i := 9) (oi := oEB42) ?_
    refine ⟨.pointer (some ⟨g, 96, none⟩), fun w' => exec_field 76 (.tmp 48) 3 rfl _ 96 rfl (fld76_3 _), ?_⟩
    simp only [oEB42, Act.put, zA, zB, zC]
    refine storeW_F (i := 10) (oi := oEB43) rfl (by kernel_rfl) (by rfl) (.tmp 49) (.tmp 47) rfl (g) 3 96 rfl [X, Y, Z, r3] T rfl rfl RG_14.out (show 3 < 4 by omega) rfl ?_
    intro W15 hr15 hg15 hz15
    simp only [oEB43, Act.put, zA, zB, zC]
    have RG_15 : Hid (RAt W15 g [X, Y, Z, T]) := Lib.hid hr15
    have RX_15 := hGq RX_14 hg15 HN1
    have RO_15 := hGq RO_14 hg15 HN2
    have RY_15 := hGq RY_14 hg15 HN3
    have RP_15 := hGq RP_14 hg15 HN4
    have HF_15 : Hid (Keeps (· = g) w W15) := Lib.hid (HF_14.out.ownrow hg15)
    have HL_15 := lG HL_14 hg15
    clear hr15 hg15 hz15 HL_14 RG_14 RX_14 RO_14 RY_14 RP_14 HF_14
    refine doneW (by kernel_rfl) ⟨rfl, ?_⟩ _
    exact ⟨RG_15.out, RX_15.out, RO_15.out, RY_15.out, RP_15.out, HF_15.out, rfl⟩
  rintro a' v16 ⟨h0, h1, h2, h3, h4, hF, rfl⟩
  have RG_16 := Lib.hid h0
  have RX_16 := Lib.hid h1
  have RO_16 := Lib.hid h2
  have RY_16 := Lib.hid h3
  have RP_16 := Lib.hid h4
  have HF_16 := Lib.hid hF
  clear h0 h1 h2 h3 h4 hF HLT13_0 HLT13_1 HLT13_2 HLT13_3 HLT13_4 HLO13 RG_12 RX_12 RO_12 RY_12 RP_12 HF_12
  go_wp2_with fail
  refine bodyPost_end (results_none rfl _ _ _) rfl ?_
  exact ⟨rfl, RG_16.out, HF_16.out⟩

set_option maxHeartbeats 4000000 in
theorem eread_core (g g1 r0 r1 r2 r3 x y t : Nat) (w : World)
    (H1 : Hid (∀ w, Calls Try.prog 17 #[.int .u64 1] w (Gives (vN 1) w))) (H2 : Hid (∀ w, Calls Try.prog 25 #[vN x, vN y] w (Gives (vN t) w)))
    (RG_0 : Hid (RAt w g [r0, r1, r2, r3])) (RX_0 : Hid (RAt w g1 [x, y])) (HN1 : Hid (g ≠ g1)) :
    Calls Try.prog 80 #[.pointer (some ⟨g, 0, none⟩), .pointer (some ⟨g1, 0, none⟩)] w (SetsR g [x, y, 1, t] w) := by
  have HF_0 : Hid (Keeps (· = g) w w) := Lib.hid (Keeps.refl _ _)
  go_enter Try.func80, Try.ntmps80
  go_wp2_with fail
  have HLT17_0 := lR RG_0
  have HLT17_1 := lR RX_0
  have HLO17 : Hid (w.heap.size ≤ w.heap.size) := Lib.hid HF_0.out.size
  refine region_split (fun a' W => RAt W g [x, y, 1, r3] ∧ RAt W g1 [x, y] ∧ Keeps (· = g) w W ∧ a' = ⟨#[.pointer (some ⟨g, 0, none⟩), .pointer (some ⟨g1, 0, none⟩), undef, undef, .pointer (some ⟨g, 0, none⟩), .pointer (some ⟨g, 0, none⟩), .pointer (some ⟨g, 0, none⟩), .pointer (some ⟨g1, 0, none⟩), .pointer (some ⟨g1, 0, none⟩), .pointer (some ⟨g1, 0, none⟩), vN x, .pointer (some ⟨g1, 0, none⟩), .pointer (some ⟨g1, 0, none⟩), .pointer (some ⟨g1, 32, none⟩), vN y, vN 1, .pointer (some ⟨g, 0, none⟩), .pointer (some ⟨g, 0, none⟩), .pointer (some ⟨g, 0, none⟩), .pointer (some ⟨g, 32, none⟩), .pointer (some ⟨g, 0, none⟩), .pointer (some ⟨g, 64, none⟩), undef, undef, undef, undef, undef, undef, undef, undef, undef, undef, undef, undef], []⟩) ?_ ?_
  · refine startW (fun j => j == 14 || j == 17 || j == 20) (w.heap.size) (by kernel_rfl) ?_
    obtain ⟨D17, hD17⟩ : ∃ D, D = w.drew := ⟨_, rfl⟩
    rw [← hD17]
    have HL_17 := dLq hD17
    have RG_17 := dRq hD17 RG_0
    have RX_17 := dRq hD17 RX_0
    have HF_17 := dFq hD17 HF_0
    clear hD17 RG_0 RX_0 HF_0
    refine tA (i := 0) (oi := oEB44) ?_
    refine ⟨.pointer (some ⟨g, 0, none⟩), fun w' => exec_move (.tmp 0) rfl _ rfl, ?_⟩
    simp only [oEB44, Act.put, zA, zB, zC]
    refine tA (i := 1) (oi := oEB45) ?_
    refine ⟨.pointer (some ⟨g, 0, none⟩), fun w' => exec_move (.tmp 0) rfl _ rfl, ?_⟩
    simp only [oEB45, Act.put, zA, zB, zC]
    refine tA (i := 2) (oi := oEB46) ?_
    refine ⟨.pointer (some ⟨g, 0, none⟩), fun w' => exec_move (.tmp 0) rfl _ rfl, ?_⟩
    simp only [oEB46, Act.put, zA, zB, zC]
    refine tA (i := 3) (oi := oEB47) ?_
    refine ⟨.pointer (some ⟨g1, 0, none⟩), fun w' => exec_move (.tmp 1) rfl _ rfl, ?_⟩
    simp only [oEB47, Act.put, zA, zB, zC]
    refine tA (i := 4) (oi := oEB48) ?_
    refine ⟨.pointer (some ⟨g1, 0, none⟩), fun w' => exec_nil (.tmp 7) rfl _ rfl, ?_⟩
    simp only [oEB48, Act.put, zA, zB, zC]
    refine tA (i := 5) (oi := oEB49) ?_
    refine ⟨.pointer (some ⟨g1, 0, none⟩), fun w' => exec_field 35 (.tmp 8) 0 rfl _ 0 rfl (fld35_0 _), ?_⟩
    simp only [oEB49, Act.put, zA, zB, zC]
    refine takeT (i := 6) (oi := oEB50) (vN x) rfl (by kernel_rfl) (by kernel_rfl) (by kernel_rfl) (by kernel_rfl) (by kernel_rfl) (fun _ _ _ h => nomatch h.1) (by rfl) (fun w' hk => exec_loadF (.tmp 9) rfl (g1) 0 0 rfl [x, y] x rfl (RX_17.out.below hk HLT17_1.out) rfl) ?_
    simp only [oEB50, Act.put, zA, zB, zC]
    refine tA (i := 7) (oi := oEB51) ?_
    refine ⟨.pointer (some ⟨g1, 0, none⟩), fun w' => exec_move (.tmp 1) rfl _ rfl, ?_⟩
    simp only [oEB51, Act.put, zA, zB, zC]
    refine tA (i := 8) (oi := oEB52) ?_
    refine ⟨.pointer (some ⟨g1, 0, none⟩), fun w' => exec_nil (.tmp 11) rfl _ rfl, ?_⟩
    simp only [oEB52, Act.put, zA, zB, zC]
    refine tA (i := 9) (oi := oEB53) ?_
    refine ⟨.pointer (some ⟨g1, 32, none⟩), fun w' => exec_field 35 (.tmp 12) 1 rfl _ 32 rfl (fld35_1 _), ?_⟩
    simp only [oEB53, Act.put, zA, zB, zC]
    refine takeT (i := 10) (oi := oEB54) (vN y) rfl (by kernel_rfl) (by kernel_rfl) (by kernel_rfl) (by kernel_rfl) (by kernel_rfl) (fun _ _ _ h => nomatch h.1) (by rfl) (fun w' hk => exec_loadF (.tmp 13) rfl (g1) 1 32 rfl [x, y] y rfl (RX_17.out.below hk HLT17_1.out) rfl) ?_
    simp only [oEB54, Act.put, zA, zB, zC]
    refine callW (i := 11) (oi := oEB55) rfl (by kernel_rfl) (by rfl) (exec_callL 17 [.const (.int .u64 1)] #[24] rfl [.int .u64 1] rfl (CG17 _)) ((H1.out D17).mono ?_)
    rintro e18 W18 ⟨rfl, hb18⟩
    refine ⟨_, rfl, fun _ => hb18.mono HL_17.out, ?_⟩
    have RG_18 := hKq RG_17 hb18
    have RX_18 := hKq RX_17 hb18
    have HF_18 := fCq HF_17 hb18
    have HL_18 := lT HL_17 hb18
    clear hb18 HL_17 RG_17 RX_17 HF_17
    simp only [oEB55, Act.put, zA, zB, zC]
    refine tA (i := 12) (oi := oEB56) ?_
    refine ⟨.pointer (some ⟨g, 0, none⟩), fun w' => exec_nil (.tmp 4) rfl _ rfl, ?_⟩
    simp only [oEB56, Act.put, zA, zB, zC]
    refine tA (i := 13) (oi := oEB57) ?_
    refine ⟨.pointer (some ⟨g, 0, none⟩), fun w' => exec_field 76 (.tmp 16) 0 rfl _ 0 rfl (fld76_0 _), ?_⟩
    simp only [oEB57, Act.put, zA, zB, zC]
    refine storeW_F (i := 14) (oi := oEB58) rfl (by kernel_rfl) (by rfl) (.tmp 17) (.tmp 10) rfl (g) 0 0 rfl [r0, r1, r2, r3] x rfl rfl RG_18.out (show 0 < 4 by omega) rfl ?_
    intro W19 hr19 hg19 hz19
    simp only [oEB58, Act.put, zA, zB, zC]
    have RG_19 : Hid (RAt W19 g [x, r1, r2, r3]) := Lib.hid hr19
    have RX_19 := hGq RX_18 hg19 HN1
    have HF_19 : Hid (Keeps (· = g) w W19) := Lib.hid (HF_18.out.ownrow hg19)
    have HL_19 := lG HL_18 hg19
    clear hr19 hg19 hz19 HL_18 RG_18 RX_18 HF_18
    refine tA (i := 15) (oi := oEB59) ?_
    refine ⟨.pointer (some ⟨g, 0, none⟩), fun w' => exec_nil (.tmp 5) rfl _ rfl, ?_⟩
    simp only [oEB59, Act.put, zA, zB, zC]
    refine tA (i := 16) (oi := oEB60) ?_
    refine ⟨.pointer (some ⟨g, 32, none⟩), fun w' => exec_field 76 (.tmp 18) 1 rfl _ 32 rfl (fld76_1 _), ?_⟩
    simp only [oEB60, Act.put, zA, zB, zC]
    refine storeW_F (i := 17) (oi := oEB61) rfl (by kernel_rfl) (by rfl) (.tmp 19) (.tmp 14) rfl (g) 1 32 rfl [x, r1, r2, r3] y rfl rfl RG_19.out (show 1 < 4 by omega) rfl ?_
    intro W20 hr20 hg20 hz20
    simp only [oEB61, Act.put, zA, zB, zC]
    have RG_20 : Hid (RAt W20 g [x, y, r2, r3]) := Lib.hid hr20
    have RX_20 := hGq RX_19 hg20 HN1
    have HF_20 : Hid (Keeps (· = g) w W20) := Lib.hid (HF_19.out.ownrow hg20)
    have HL_20 := lG HL_19 hg20
    clear hr20 hg20 hz20 HL_19 RG_19 RX_19 HF_19
    refine tA (i := 18) (oi := oEB62) ?_
    refine ⟨.pointer (some ⟨g, 0, none⟩), fun w' => exec_nil (.tmp 6) rfl _ rfl, ?_⟩
    simp only [oEB62, Act.put, zA, zB, zC]
    refine tA (i := 19) (oi := oEB63) ?_
    refine ⟨.pointer (some ⟨g, 64, none⟩), fun w' => exec_field 76 (.tmp 20) 2 rfl _ 64 rfl (fld76_2 _), ?_⟩
    simp only [oEB63, Act.put, zA, zB, zC]
    refine storeW_F (i := 20) (oi := oEB64) rfl (by kernel_rfl) (by rfl) (.tmp 21) (.tmp 15) rfl (g) 2 64 rfl [x, y, r2, r3] 1 rfl rfl RG_20.out (show 2 < 4 by omega) rfl ?_
    intro W21 hr21 hg21 hz21
    simp only [oEB64, Act.put, zA, zB, zC]
    have RG_21 : Hid (RAt W21 g [x, y, 1, r3]) := Lib.hid hr21
    have RX_21 := hGq RX_20 hg21 HN1
    have HF_21 : Hid (Keeps (· = g) w W21) := Lib.hid (HF_20.out.ownrow hg21)
    have HL_21 := lG HL_20 hg21
    clear hr21 hg21 hz21 HL_20 RG_20 RX_20 HF_20
    refine doneW (by kernel_rfl) ⟨rfl, ?_⟩ _
    exact ⟨RG_21.out, RX_21.out, HF_21.out, rfl⟩
  rintro a' v22 ⟨h0, h1, hF, rfl⟩
  have RG_22 := Lib.hid h0
  have RX_22 := Lib.hid h1
  have HF_22 := Lib.hid hF
  clear h0 h1 hF HLT17_0 HLT17_1 HLO17 RG_0 RX_0 HF_0
  go_wp2_with fail
  have HLT23_0 := lR RG_22
  have HLT23_1 := lR RX_22
  have HLO23 : Hid (w.heap.size ≤ v22.heap.size) := Lib.hid HF_22.out.size
  refine region_split (fun a' W => RAt W g [x, y, 1, t] ∧ RAt W g1 [x, y] ∧ Keeps (· = g) w W ∧ a' = ⟨#[.pointer (some ⟨g, 0, none⟩), .pointer (some ⟨g1, 0, none⟩), undef, undef, .pointer (some ⟨g, 0, none⟩), .pointer (some ⟨g, 0, none⟩), .pointer (some ⟨g, 0, none⟩), .pointer (some ⟨g1, 0, none⟩), .pointer (some ⟨g1, 0, none⟩), .pointer (some ⟨g1, 0, none⟩), vN x, .pointer (some ⟨g1, 0, none⟩), .pointer (some ⟨g1, 0, none⟩), .pointer (some ⟨g1, 32, none⟩), vN y, vN 1, .pointer (some ⟨g, 0, none⟩), .pointer (some ⟨g, 0, none⟩), .pointer (some ⟨g, 0, none⟩), .pointer (some ⟨g, 32, none⟩), .pointer (some ⟨g, 0, none⟩), .pointer (some ⟨g, 64, none⟩), .pointer (some ⟨g, 0, none⟩), .pointer (some ⟨g1, 0, none⟩), .pointer (some ⟨g1, 0, none⟩), .pointer (some ⟨g1, 0, none⟩), vN x, .pointer (some ⟨g1, 0, none⟩), .pointer (some ⟨g1, 0, none⟩), .pointer (some ⟨g1, 32, none⟩), vN y, vN t, .pointer (some ⟨g, 0, none⟩), .pointer (some ⟨g, 96, none⟩)], []⟩) ?_ ?_
  · refine startW (fun j => j == 12) (v22.heap.size) (by kernel_rfl) ?_
    obtain ⟨D23, hD23⟩ : ∃ D, D = v22.drew := ⟨_, rfl⟩
    rw [← hD23]
    have HL_23 := dLq hD23
    have RG_23 := dRq hD23 RG_22
    have RX_23 := dRq hD23 RX_22
    have HF_23 := dFq hD23 HF_22
    clear hD23 RG_22 RX_22 HF_22
    refine tA (i := 0) (oi := oEB65) ?_
    refine ⟨.pointer (some ⟨g, 0, none⟩), fun w' => exec_move (.tmp 0) rfl _ rfl, ?_⟩
    simp only [oEB65, Act.put, zA, zB, zC]
    refine tA (i := 1) (oi := oEB66) ?_
    refine ⟨.pointer (some ⟨g1, 0, none⟩), fun w' => exec_move (.tmp 1) rfl _ rfl, ?_⟩
    simp only [oEB66, Act.put, zA, zB, zC]
    refine tA (i := 2) (oi := oEB67) ?_
    refine ⟨.pointer (some ⟨g1, 0, none⟩), fun w' => exec_nil (.tmp 23) rfl _ rfl, ?_⟩
    simp only [oEB67, Act.put, zA, zB, zC]
    refine tA (i := 3) (oi := oEB68) ?_
    refine ⟨.pointer (some ⟨g1, 0, none⟩), fun w' => exec_field 35 (.tmp 24) 0 rfl _ 0 rfl (fld35_0 _), ?_⟩
    simp only [oEB68, Act.put, zA, zB, zC]
    refine takeT (i := 4) (oi := oEB69) (vN x) rfl (by kernel_rfl) (by kernel_rfl) (by kernel_rfl) (by kernel_rfl) (by kernel_rfl) (fun _ _ _ h => nomatch h.1) (by rfl) (fun w' hk => exec_loadF (.tmp 25) rfl (g1) 0 0 rfl [x, y] x rfl (RX_23.out.below hk HLT23_1.out) rfl) ?_
    simp only [oEB69, Act.put, zA, zB, zC]
    refine tA (i := 5) (oi := oEB70) ?_
    refine ⟨.pointer (some ⟨g1, 0, none⟩), fun w' => exec_move (.tmp 1) rfl _ rfl, ?_⟩
    simp only [oEB70, Act.put, zA, zB, zC]
    refine tA (i := 6) (oi := oEB71) ?_
    refine ⟨.pointer (some ⟨g1, 0, none⟩), fun w' => exec_nil (.tmp 27) rfl _ rfl, ?_⟩
    simp only [oEB71, Act.put, zA, zB, zC]
    refine tA (i := 7) (oi := oEB72) ?_
    refine ⟨.pointer (some ⟨g1, 32, none⟩), fun w' => exec_field 35 (.tmp 28) 1 rfl _ 32 rfl (fld35_1 _), ?_⟩
    simp only [oEB72, Act.put, zA, zB, zC]
    refine takeT (i := 8) (oi := oEB73) (vN y) rfl (by kernel_rfl) (by kernel_rfl) (by kernel_rfl) (by kernel_rfl) (by kernel_rfl) (fun _ _ _ h => nomatch h.1) (by rfl) (fun w' hk => exec_loadF (.tmp 29) rfl (g1) 1 32 rfl [x, y] y rfl (RX_23.out.below hk HLT23_1.out) rfl) ?_
    simp only [oEB73, Act.put, zA, zB, zC]
    refine callW (i := 9) (oi := oEB74) rfl (by kernel_rfl) (by rfl) (exec_callL 25 [.tmp 26, .tmp 30] #[23, 23] rfl [vN x, vN y] rfl (CG25 _)) ((H2.out D23).mono ?_)
    rintro e24 W24 ⟨rfl, hb24⟩
    refine ⟨_, rfl, fun _ => hb24.mono HL_23.out, ?_⟩
    have RG_24 := hKq RG_23 hb24
    have RX_24 := hKq RX_23 hb24
    have HF_24 := fCq HF_23 hb24
    have HL_24 := lT HL_23 hb24
    clear hb24 HL_23 RG_23 RX_23 HF_23
    simp only [oEB74, Act.put, zA, zB, zC]
    refine tA (i := 10) (oi := oEB75) ?_
    refine ⟨.pointer (some ⟨g, 0, none⟩), fun w' => exec_nil (.tmp 22) rfl _ rfl, ?_⟩
    simp only [oEB75, Act.put, zA, zB, zC]
    refine tA (i := 11) (oi := oEB76) ?_
    refine ⟨.pointer (some ⟨g, 96, none⟩), fun w' => exec_field 76 (.tmp 32) 3 rfl _ 96 rfl (fld76_3 _), ?_⟩
    simp only [oEB76, Act.put, zA, zB, zC]
    refine storeW_F (i := 12) (oi := oEB77) rfl (by kernel_rfl) (by rfl) (.tmp 33) (.tmp 31) rfl (g) 3 96 rfl [x, y, 1, r3] t rfl rfl RG_24.out (show 3 < 4 by omega) rfl ?_
    intro W25 hr25 hg25 hz25
    simp only [oEB77, Act.put, zA, zB, zC]
    have RG_25 : Hid (RAt W25 g [x, y, 1, t]) := Lib.hid hr25
    have RX_25 := hGq RX_24 hg25 HN1
    have HF_25 : Hid (Keeps (· = g) w W25) := Lib.hid (HF_24.out.ownrow hg25)
    have HL_25 := lG HL_24 hg25
    clear hr25 hg25 hz25 HL_24 RG_24 RX_24 HF_24
    refine doneW (by kernel_rfl) ⟨rfl, ?_⟩ _
    exact ⟨RG_25.out, RX_25.out, HF_25.out, rfl⟩
  rintro a' v26 ⟨h0, h1, hF, rfl⟩
  have RG_26 := Lib.hid h0
  have RX_26 := Lib.hid h1
  have HF_26 := Lib.hid hF
  clear h0 h1 hF HLT23_0 HLT23_1 HLO23 RG_22 RX_22 HF_22
  go_wp2_with fail
  refine bodyPost_end (results_none rfl _ _ _) rfl ?_
  exact ⟨rfl, RG_26.out, HF_26.out⟩
end Go.Proofs.Ytgdimnbdnepbgaa
/- Points: out of extended coordinates. No statement is proved here. -/
namespace Go.Proofs.Ytgdimnbdnepbgaa
open Go.RowKit
set_option linter.unusedVariables false
set_option maxRecDepth 40000
set_option linter.unusedSimpArgs false
def oEE0 : Oper := { dst := some 9, op := Op.move (Operand.tmp 0), type := 80, pos := "extended.go:23", after := #[], guard := none }
def oEE1 : Oper := { dst := some 10, op := Op.nilCheck (Operand.tmp 9), type := 0, pos := "extended.go:23", after := #[{ on := 0, ground := Ground.data }], guard := none }
def oEE2 : Oper := { dst := some 11, op := Op.fieldAddr 76 (Operand.tmp 10) 0, type := 0, pos := "extended.go:23", after := #[{ on := 1, ground := Ground.data }], guard := none }
def oEE3 : Oper := { dst := some 12, op := Op.load 23 (Operand.tmp 11), type := 23, pos := "extended.go:23", after := #[{ on := 2, ground := Ground.data }], guard := none }
def oEE4 : Oper := { dst := some 13, op := Op.load 23 (Operand.tmp 3), type := 23, pos := "extended.go:23", after := #[], guard := none }
def oEE5 : Oper := { dst := some 15, op := Op.move (Operand.tmp 0), type := 80, pos := "extended.go:23", after := #[], guard := none }
def oEE6 : Oper := { dst := some 16, op := Op.nilCheck (Operand.tmp 15), type := 0, pos := "extended.go:23", after := #[{ on := 6, ground := Ground.data }], guard := none }
def oEE7 : Oper := { dst := some 17, op := Op.fieldAddr 76 (Operand.tmp 16) 1, type := 0, pos := "extended.go:23", after := #[{ on := 7, ground := Ground.data }], guard := none }
def oEE8 : Oper := { dst := some 18, op := Op.load 23 (Operand.tmp 17), type := 23, pos := "extended.go:23", after := #[{ on := 8, ground := Ground.data }], guard := none }
def oEE9 : Oper := { dst := some 19, op := Op.load 23 (Operand.tmp 3), type := 23, pos := "extended.go:23", after := #[], guard := none }
def oEE10 : Oper := { dst := some 14, op := Op.call { callee := Callee.value (Operand.func 25), args := #[Operand.tmp 12, Operand.tmp 13], argTypes := #[23, 23] }, type := 23, pos := "extended.go:23", after := #[{ on := 3, ground := Ground.data }, { on := 4, ground := Ground.data }], guard := none }
def oEE11 : Oper := { dst := some 20, op := Op.call { callee := Callee.value (Operand.func 25), args := #[Operand.tmp 18, Operand.tmp 19], argTypes := #[23, 23] }, type := 23, pos := "extended.go:23", after := #[{ on := 9, ground := Ground.data }, { on := 10, ground := Ground.data }, { on := 5, ground := Ground.chain }], guard := none }
def oEE12 : Oper := { dst := some 21, op := Op.build 35 #[(0, Operand.tmp 14), (1, Operand.tmp 20)], type := 35, pos := "extended.go:23", after := #[{ on := 5, ground := Ground.data }, { on := 11, ground := Ground.data }], guard := none }
def oEE13 : Oper := { dst := none, op := Op.store 35 (Operand.tmp 2) (Operand.tmp 21), type := 0, pos := "extended.go:23", after := #[{ on := 12, ground := Ground.data }, { on := 11, ground := Ground.chain }, { on := 0, ground := Ground.phase }, { on := 1, ground := Ground.phase }, { on := 2, ground := Ground.phase }, { on := 3, ground := Ground.phase }, { on := 4, ground := Ground.phase }, { on := 5, ground := Ground.phase }, { on := 6, ground := Ground.phase }, { on := 7, ground := Ground.phase }, { on := 8, ground := Ground.phase }, { on := 9, ground := Ground.phase }, { on := 10, ground := Ground.phase }, { on := 11, ground := Ground.phase }, { on := 12, ground := Ground.phase }], guard := none }

set_option maxHeartbeats 8000000 in
theorem epoint_core (g x y z t i X Y : Nat) (w : World)
    (C0 : Hid (∀ w, Calls Try.prog 29 #[vN z] w (Gives (vN i) w)))
    (C1 : Hid (∀ w, Calls Try.prog 25 #[vN x, vN i] w (Gives (vN X) w)))
    (C2 : Hid (∀ w, Calls Try.prog 25 #[vN y, vN i] w (Gives (vN Y) w)))
    (RG_0 : Hid (RAt w g [x, y, z, t])) :
    Calls Try.prog 82 #[.pointer (some ⟨g, 0, none⟩)] w (Gives (vR [X, Y]) w) := by
  have HF_0 : Hid (Below w.heap.size w w) := Lib.hid (Below.refl _ _)
  go_enter Try.func82, Try.ntmps82
  go_wp2_with (first | ((with_reducible show wpList _ _ _ (⟨some 2, .alloc 35, _, _, _, _⟩ :: _) _ _); go_must (refine wpList_alloc_row rfl 35 rfl (.agg (zbs 64)) zero35 ?_; intro u1 ha1 hza1 hga1; have RG_1 := Lib.hid (RG_0.out.grown hga1 (by simp)); have Ngr_1 : Hid (RAt u1 w.heap.size [0, 0]) := Lib.hid (zrow (k := 2) ha1); have HF_1 : Hid (Below w.heap.size w u1) := Lib.hid (HF_0.out.grown hga1 HF_0.out.size (by simp)); have HNE1_0 : Hid (g ≠ w.heap.size) := Lib.hid (by have := RG_0.out.lt; omega); have HGE1 : Hid (w.heap.size ≤ w.heap.size) := Lib.hid HF_0.out.size; clear ha1 hza1 hga1 RG_0 HF_0)) | ((with_reducible show wpList _ _ _ (⟨_, .load 23 (.tmp 6), _, _, _, _⟩ :: _) _ _); go_must (refine wpList_exec rfl (vN z) (exec_loadF (.tmp 6) rfl (g) 2 64 rfl [x, y, z, t] z rfl RG_1.out rfl) ?_)) | fail)
  refine (C0.out _).mono ?_
  rintro e2 x2 ⟨rfl, hb2⟩
  have RG_2 := hKq RG_1 hb2
  have Ngr_2 := hKq Ngr_1 hb2
  have HF_2 := fTq HF_1 hb2
  clear hb2 RG_1 Ngr_1 HF_1
  go_wp2_with (first | ((with_reducible show wpList _ _ _ (⟨some 3, .alloc 23, _, _, _, _⟩ :: _) _ _); go_must (refine wpList_alloc_row rfl 23 rfl (.agg (zbs 32)) zero23 ?_; intro u3 ha3 hza3 hga3; have HA3 := Lib.hid ha3; have HZA3 := Lib.hid hza3; have HGA3 := Lib.hid hga3; clear ha3 hza3 hga3)) | ((with_reducible show wpList _ _ _ (⟨none, .store 23 (.tmp 3) (.tmp 8), _, _, _, _⟩ :: _) _ _); go_must (refine wpList_storeF rfl (.tmp 3) (.tmp 8) rfl (x2.heap.size) 0 0 rfl [0] i rfl rfl (zrow (k := 1) HA3.out) (show 0 < 1 by omega) ?_; intro y3 hr3 hg3 hz3; have RG_3 := Lib.hid ((RG_2.out.grown HGA3.out (by simp)).grown hg3 (by have := RG_2.out.lt; simp; omega)); have Ngr_3 := Lib.hid ((Ngr_2.out.grown HGA3.out (by simp)).grown hg3 (by have := Ngr_2.out.lt; simp; omega)); have Ng3_3 : Hid (RAt y3 x2.heap.size [i]) := Lib.hid hr3; have HF_3 : Hid (Below w.heap.size w y3) := Lib.hid ((HF_2.out.grown HGA3.out HF_2.out.size (by simp)).grown hg3 (by have := HF_2.out.size; have := HZA3.out; omega) (fun r hr => by injection hr with hr; have := HF_2.out.size; omega)); have HNE3_1 : Hid (g ≠ x2.heap.size) := Lib.hid (by have := RG_2.out.lt; omega); have HNE3_2 : Hid (w.heap.size ≠ x2.heap.size) := Lib.hid (by have := Ngr_2.out.lt; omega); have HGE3 : Hid (w.heap.size ≤ x2.heap.size) := Lib.hid HF_2.out.size; clear hr3 hg3 hz3 HA3 HZA3 HGA3 RG_2 Ngr_2 HF_2)) | fail)
  generalize x2.heap.size = g3 at *
  have HLT4_0 := lR RG_3
  have HLT4_1 := lR Ngr_3
  have HLT4_2 := lR Ng3_3
  have HLO4 : Hid (w.heap.size ≤ y3.heap.size) := Lib.hid HF_3.out.size
  refine region_split (fun a' W => RAt W g [x, y, z, t] ∧ RAt W w.heap.size [X, Y] ∧ RAt W g3 [i] ∧ Below w.heap.size w W ∧ a' = ⟨#[.pointer (some ⟨g, 0, none⟩), undef, .pointer (some ⟨w.heap.size, 0, none⟩), .pointer (some ⟨g3, 0, none⟩), .pointer (some ⟨g, 0, none⟩), .pointer (some ⟨g, 0, none⟩), .pointer (some ⟨g, 64, none⟩), vN z, vN i, .pointer (some ⟨g, 0, none⟩), .pointer (some ⟨g, 0, none⟩), .pointer (some ⟨g, 0, none⟩), vN x, vN i, vN X, .pointer (some ⟨g, 0, none⟩), .pointer (some ⟨g, 0, none⟩), .pointer (some ⟨g, 32, none⟩), vN y, vN i, vN Y, vR [X, Y]], []⟩) ?_ ?_
  · refine startW (fun j => j == 13) (y3.heap.size) (by kernel_rfl) ?_
    obtain ⟨D4, hD4⟩ : ∃ D, D = y3.drew := ⟨_, rfl⟩
    rw [← hD4]
    have HL_4 := dLq hD4
    have RG_4 := dRq hD4 RG_3
    have Ngr_4 := dRq hD4 Ngr_3
    have Ng3_4 := dRq hD4 Ng3_3
    have HF_4 : Hid (Below w.heap.size w D4) := Lib.hid (by rw [hD4]; exact below_drewN' HF_3.out 1)
    clear hD4 RG_3 Ngr_3 Ng3_3 HF_3
    refine tA (i := 0) (oi := oEE0) ?_
    refine ⟨.pointer (some ⟨g, 0, none⟩), fun w' => exec_move (.tmp 0) rfl _ rfl, ?_⟩
    simp only [oEE0, Act.put, zA, zB, zC]
    refine tA (i := 1) (oi := oEE1) ?_
    refine ⟨.pointer (some ⟨g, 0, none⟩), fun w' => exec_nil (.tmp 9) rfl _ rfl, ?_⟩
    simp only [oEE1, Act.put, zA, zB, zC]
    refine tA (i := 2) (oi := oEE2) ?_
    refine ⟨.pointer (some ⟨g, 0, none⟩), fun w' => exec_field 76 (.tmp 10) 0 rfl _ 0 rfl (fld76_0 _), ?_⟩
    simp only [oEE2, Act.put, zA, zB, zC]
    refine takeT (i := 3) (oi := oEE3) (vN x) rfl (by kernel_rfl) (by kernel_rfl) (by kernel_rfl) (by kernel_rfl) (by kernel_rfl) (fun _ _ _ h => nomatch h.1) (by rfl) (fun w' hk => exec_loadF (.tmp 11) rfl (g) 0 0 rfl [x, y, z, t] x rfl (RG_4.out.below hk HLT4_0.out) rfl) ?_
    simp only [oEE3, Act.put, zA, zB, zC]
    refine takeT (i := 4) (oi := oEE4) (vN i) rfl (by kernel_rfl) (by kernel_rfl) (by kernel_rfl) (by kernel_rfl) (by kernel_rfl) (fun _ _ _ h => nomatch h.1) (by rfl) (fun w' hk => exec_loadF (.tmp 3) rfl (g3) 0 0 rfl [i] i rfl (Ng3_4.out.below hk HLT4_2.out) rfl) ?_
    simp only [oEE4, Act.put, zA, zB, zC]
    refine tA (i := 6) (oi := oEE5) ?_
    refine ⟨.pointer (some ⟨g, 0, none⟩), fun w' => exec_move (.tmp 0) rfl _ rfl, ?_⟩
    simp only [oEE5, Act.put, zA, zB, zC]
    refine tA (i := 7) (oi := oEE6) ?_
    refine ⟨.pointer (some ⟨g, 0, none⟩), fun w' => exec_nil (.tmp 15) rfl _ rfl, ?_⟩
    simp only [oEE6, Act.put, zA, zB, zC]
    refine tA (i := 8) (oi := oEE7) ?_
    refine ⟨.pointer (some ⟨g, 32, none⟩), fun w' => exec_field 76 (.tmp 16) 1 rfl _ 32 rfl (fld76_1 _), ?_⟩
    simp only [oEE7, Act.put, zA, zB, zC]
    refine takeT (i := 9) (oi := oEE8) (vN y) rfl (by kernel_rfl) (by kernel_rfl) (by kernel_rfl) (by kernel_rfl) (by kernel_rfl) (fun _ _ _ h => nomatch h.1) (by rfl) (fun w' hk => exec_loadF (.tmp 17) rfl (g) 1 32 rfl [x, y, z, t] y rfl (RG_4.out.below hk HLT4_0.out) rfl) ?_
    simp only [oEE8, Act.put, zA, zB, zC]
    refine takeT (i := 10) (oi := oEE9) (vN i) rfl (by kernel_rfl) (by kernel_rfl) (by kernel_rfl) (by kernel_rfl) (by kernel_rfl) (fun _ _ _ h => nomatch h.1) (by rfl) (fun w' hk => exec_loadF (.tmp 3) rfl (g3) 0 0 rfl [i] i rfl (Ng3_4.out.below hk HLT4_2.out) rfl) ?_
    simp only [oEE9, Act.put, zA, zB, zC]
    refine callW (i := 5) (oi := oEE10) rfl (by kernel_rfl) (by rfl) (exec_callL 25 [.tmp 12, .tmp 13] #[23, 23] rfl [vN x, vN i] rfl (CG25 _)) ((C1.out D4).mono ?_)
    rintro e5 W5 ⟨rfl, hb5⟩
    refine ⟨_, rfl, fun _ => hb5.mono HL_4.out, ?_⟩
    have RG_5 := hKq RG_4 hb5
    have Ngr_5 := hKq Ngr_4 hb5
    have Ng3_5 := hKq Ng3_4 hb5
    have HF_5 := fTq HF_4 hb5
    have HL_5 := lT HL_4 hb5
    clear hb5 HL_4 RG_4 Ngr_4 Ng3_4 HF_4
    simp only [oEE10, Act.put, zA, zB, zC]
    refine callW (i := 11) (oi := oEE11) rfl (by kernel_rfl) (by rfl) (exec_callL 25 [.tmp 18, .tmp 19] #[23, 23] rfl [vN y, vN i] rfl (CG25 _)) ((C2.out W5).mono ?_)
    rintro e6 W6 ⟨rfl, hb6⟩
    refine ⟨_, rfl, fun _ => hb6.mono HL_5.out, ?_⟩
    have RG_6 := hKq RG_5 hb6
    have Ngr_6 := hKq Ngr_5 hb6
    have Ng3_6 := hKq Ng3_5 hb6
    have HF_6 := fTq HF_5 hb6
    have HL_6 := lT HL_5 hb6
    clear hb6 HL_5 RG_5 Ngr_5 Ng3_5 HF_5
    simp only [oEE11, Act.put, zA, zB, zC]
    refine tA (i := 12) (oi := oEE12) ?_
    refine ⟨vR [X, Y], fun w' => exec_build35 (.tmp 14) (.tmp 20) X Y rfl rfl rfl, ?_⟩
    simp only [oEE12, Act.put, zA, zB, zC]
    refine storeW_P (i := 13) (oi := oEE13) rfl (by kernel_rfl) (by rfl) (.tmp 2) (.tmp 21) rfl (w.heap.size) [0, 0] X Y rfl rfl Ngr_6.out rfl rfl ?_
    intro W7 hr7 hg7 hz7
    simp only [oEE13, Act.put, zA, zB, zC]
    have RG_7 := hGq RG_6 hg7 HNE1_0
    have Ngr_7 : Hid (RAt W7 w.heap.size [X, Y]) := Lib.hid hr7
    have Ng3_7 := hGq Ng3_6 hg7 HNE3_2
    have HF_7 : Hid (Below w.heap.size w W7) := Lib.hid (HF_6.out.grown hg7 HF_6.out.size (fun r hr => by injection hr with hr; have := HGE1.out; omega))
    have HL_7 := lG HL_6 hg7
    clear hr7 hg7 hz7 HL_6 RG_6 Ngr_6 Ng3_6 HF_6
    refine doneW (by kernel_rfl) ⟨rfl, ?_⟩ _
    exact ⟨RG_7.out, Ngr_7.out, Ng3_7.out, HF_7.out, rfl⟩
  rintro a' v8 ⟨h0, h1, h2, hF, rfl⟩
  have RG_8 := Lib.hid h0
  have Ngr_8 := Lib.hid h1
  have Ng3_8 := Lib.hid h2
  have HF_8 := Lib.hid hF
  clear h0 h1 h2 hF HLT4_0 HLT4_1 HLT4_2 HLO4 RG_3 Ngr_3 Ng3_3 HF_3
  go_wp2_with fail
  obtain ⟨tr, htr⟩ := Ngr_8.out
  refine bodyPost_ret (results_cell_row rfl _ _ w.heap.size tr (bcs (encs [X, Y])).toArray _ _ rfl htr Try.underlying35 rfl (by rw [List.size_toArray, bcs_len, encs_len]; exact size35)) rfl ?_
  exact ⟨rfl, HF_8.out⟩
end Go.Proofs.Ytgdimnbdnepbgaa
/- The curve: D, Zero, Base, onCurve, Check, Add, Neg. No statement is proved here. -/
namespace Go.Proofs.Ytgdimnbdnepbgaa
open Go.RowKit
set_option linter.unusedVariables false
set_option maxRecDepth 40000
set_option linter.unusedSimpArgs false
def oEF0 : Oper := { dst := some 5, op := Op.fieldAddr 35 (Operand.tmp 1) 0, type := 0, pos := "curve.go:47", after := #[], guard := none }
def oEF1 : Oper := { dst := some 6, op := Op.load 23 (Operand.tmp 5), type := 23, pos := "curve.go:47", after := #[{ on := 0, ground := Ground.data }], guard := none }
def oEF2 : Oper := { dst := some 7, op := Op.fieldAddr 35 (Operand.tmp 1) 0, type := 0, pos := "curve.go:47", after := #[], guard := none }
def oEF3 : Oper := { dst := some 8, op := Op.load 23 (Operand.tmp 7), type := 23, pos := "curve.go:47", after := #[{ on := 2, ground := Ground.data }], guard := none }
def oEF4 : Oper := { dst := some 10, op := Op.fieldAddr 35 (Operand.tmp 1) 1, type := 0, pos := "curve.go:47", after := #[], guard := none }
def oEF5 : Oper := { dst := some 11, op := Op.load 23 (Operand.tmp 10), type := 23, pos := "curve.go:47", after := #[{ on := 5, ground := Ground.data }], guard := none }
def oEF6 : Oper := { dst := some 12, op := Op.fieldAddr 35 (Operand.tmp 1) 1, type := 0, pos := "curve.go:47", after := #[], guard := none }
def oEF7 : Oper := { dst := some 13, op := Op.load 23 (Operand.tmp 12), type := 23, pos := "curve.go:47", after := #[{ on := 7, ground := Ground.data }], guard := none }
def oEF8 : Oper := { dst := some 9, op := Op.call { callee := Callee.value (Operand.func 25), args := #[Operand.tmp 6, Operand.tmp 8], argTypes := #[23, 23] }, type := 23, pos := "curve.go:47", after := #[{ on := 1, ground := Ground.data }, { on := 3, ground := Ground.data }], guard := none }
def oEF9 : Oper := { dst := some 14, op := Op.call { callee := Callee.value (Operand.func 25), args := #[Operand.tmp 11, Operand.tmp 13], argTypes := #[23, 23] }, type := 23, pos := "curve.go:47", after := #[{ on := 6, ground := Ground.data }, { on := 8, ground := Ground.data }, { on := 4, ground := Ground.chain }], guard := none }
def oEF10 : Oper := { dst := some 3, op := Op.alloc 23, type := 0, pos := "curve.go:47", after := #[], guard := none }
def oEF11 : Oper := { dst := some 4, op := Op.alloc 23, type := 0, pos := "curve.go:47", after := #[], guard := none }
def oEF12 : Oper := { dst := none, op := Op.store 23 (Operand.tmp 3) (Operand.tmp 9), type := 0, pos := "curve.go:47", after := #[{ on := 10, ground := Ground.data }, { on := 4, ground := Ground.data }, { on := 9, ground := Ground.chain }, { on := 0, ground := Ground.phase }, { on := 1, ground := Ground.phase }, { on := 2, ground := Ground.phase }, { on := 3, ground := Ground.phase }, { on := 4, ground := Ground.phase }, { on := 5, ground := Ground.textOnly Departure.lateStores }, { on := 6, ground := Ground.textOnly Departure.lateStores }, { on := 7, ground := Ground.textOnly Departure.lateStores }, { on := 8, ground := Ground.textOnly Departure.lateStores }, { on := 9, ground := Ground.textOnly Departure.lateStoresUnsure }, { on := 10, ground := Ground.phase }, { on := 11, ground := Ground.phase }], guard := none }
def oEF13 : Oper := { dst := none, op := Op.store 23 (Operand.tmp 4) (Operand.tmp 14), type := 0, pos := "curve.go:47", after := #[{ on := 11, ground := Ground.data }, { on := 9, ground := Ground.data }, { on := 12, ground := Ground.chain }, { on := 0, ground := Ground.phase }, { on := 1, ground := Ground.phase }, { on := 2, ground := Ground.phase }, { on := 3, ground := Ground.phase }, { on := 4, ground := Ground.phase }, { on := 5, ground := Ground.phase }, { on := 6, ground := Ground.phase }, { on := 7, ground := Ground.phase }, { on := 8, ground := Ground.phase }, { on := 9, ground := Ground.phase }, { on := 10, ground := Ground.phase }, { on := 11, ground := Ground.phase }, { on := 12, ground := Ground.phase }], guard := none }
def oEF14 : Oper := { dst := some 15, op := Op.load 23 (Operand.tmp 4), type := 23, pos := "curve.go:48", after := #[], guard := none }
def oEF15 : Oper := { dst := some 16, op := Op.load 23 (Operand.tmp 3), type := 23, pos := "curve.go:48", after := #[], guard := none }
def oEF16 : Oper := { dst := some 20, op := Op.load 23 (Operand.tmp 3), type := 23, pos := "curve.go:48", after := #[], guard := none }
def oEF17 : Oper := { dst := some 21, op := Op.load 23 (Operand.tmp 4), type := 23, pos := "curve.go:48", after := #[], guard := none }
def oEF18 : Oper := { dst := some 17, op := Op.call { callee := Callee.value (Operand.func 21), args := #[Operand.tmp 15, Operand.tmp 16], argTypes := #[23, 23] }, type := 23, pos := "curve.go:48", after := #[{ on := 0, ground := Ground.data }, { on := 1, ground := Ground.data }], guard := none }
def oEF19 : Oper := { dst := some 18, op := Op.call { callee := Callee.value (Operand.func 17), args := #[Operand.const (Value.int IntKind.u64 1)], argTypes := #[24] }, type := 23, pos := "curve.go:48", after := #[{ on := 2, ground := Ground.chain }], guard := none }
def oEF20 : Oper := { dst := some 19, op := Op.call { callee := Callee.value (Operand.func 45), args := #[], argTypes := #[] }, type := 23, pos := "curve.go:48", after := #[{ on := 3, ground := Ground.chain }], guard := none }
def oEF21 : Oper := { dst := some 22, op := Op.call { callee := Callee.value (Operand.func 25), args := #[Operand.tmp 20, Operand.tmp 21], argTypes := #[23, 23] }, type := 23, pos := "curve.go:48", after := #[{ on := 5, ground := Ground.data }, { on := 6, ground := Ground.data }, { on := 4, ground := Ground.chain }], guard := none }
def oEF22 : Oper := { dst := some 23, op := Op.call { callee := Callee.value (Operand.func 25), args := #[Operand.tmp 19, Operand.tmp 22], argTypes := #[23, 23] }, type := 23, pos := "curve.go:48", after := #[{ on := 4, ground := Ground.data }, { on := 7, ground := Ground.data }, { on := 7, ground := Ground.chain }], guard := none }
def oEF23 : Oper := { dst := some 24, op := Op.call { callee := Callee.value (Operand.func 19), args := #[Operand.tmp 18, Operand.tmp 23], argTypes := #[23, 23] }, type := 23, pos := "curve.go:48", after := #[{ on := 3, ground := Ground.data }, { on := 8, ground := Ground.data }, { on := 8, ground := Ground.chain }], guard := none }
def oEF24 : Oper := { dst := some 25, op := Op.binOp BinOp.eql 23 (Operand.tmp 17) (Operand.tmp 24) 23, type := 4, pos := "curve.go:48", after := #[{ on := 2, ground := Ground.data }, { on := 9, ground := Ground.data }], guard := none }
def oEF25 : Oper := { dst := some 2, op := Op.assign (Operand.tmp 25), type := 4, pos := "curve.go:48", after := #[{ on := 10, ground := Ground.data }, { on := 9, ground := Ground.chain }, { on := 0, ground := Ground.phase }, { on := 1, ground := Ground.phase }, { on := 2, ground := Ground.phase }, { on := 3, ground := Ground.phase }, { on := 4, ground := Ground.phase }, { on := 5, ground := Ground.phase }, { on := 6, ground := Ground.phase }, { on := 7, ground := Ground.phase }, { on := 8, ground := Ground.phase }, { on := 9, ground := Ground.phase }, { on := 10, ground := Ground.phase }], guard := none }

def dN : Nat := 37095705934669439343138083508754565189542113879843219016388785533085940283555
def bxN : Nat := 15112221349535400772501151409588531511454012693041857206046113283949847762202
def byN : Nat := 46316835694926478169428394003475163141307993866256225615783033603165251855960
theorem Keeps.method {G : Nat → Prop} {w x y : World} {r : Nat} (h : Keeps G w x) (hk : Keeps (· = r) x y) (hr : w.heap.size ≤ r) : Keeps G w y :=
  ⟨hk.os.trans h.os, hk.tape.trans h.tape, hk.output.trans h.output, Nat.le_trans h.size hk.size, fun k hlt hn => (hk.block k (Nat.lt_of_lt_of_le hlt h.size) (by show ¬ _ = _; omega)).trans (h.block k hlt hn)⟩
theorem exec_buildc {o : Oper} {a : Act} {w : World} {t : TypeId} {parts : Array (Nat × Operand)} {v : Value} (ho : o.op = .build t parts) (h : (Instr.build t (parts.map fun (i, x) => (i, a.eval x))).run Try.prog w = .ok v w) : (execOp a.eval o).run Try.prog w = .ok (.value v) w := by
  unfold execOp
  simp only [ho, Sem.run_bind, Sem.run_pure]
  rw [h]
  rfl
theorem run_build35_1 (n : Nat) (w : World) : (Instr.build 35 #[(1, vN n)]).run Try.prog w = .ok (vR [0, n]) w := by kernel_rfl
theorem exec_build35_1 {o : Oper} {a : Act} {w : World} (x : Operand) (n : Nat) (ho : o.op = .build 35 #[(1, x)]) (hx : a.eval x = vN n) : (execOp a.eval o).run Try.prog w = .ok (.value (vR [0, n])) w := by
  unfold execOp
  simp only [ho, List.map_toArray, List.map_cons, List.map_nil, Sem.run_bind, Sem.run_pure, hx]
  rw [run_build35_1 n w]
  rfl

set_option maxHeartbeats 1000000 in
theorem D_any (w : World) : Calls Try.prog 45 #[] w (Gives (vN dN) w) := by
  have HF_0 : Hid (Below w.heap.size w w) := Lib.hid (Below.refl _ _)
  go_enter Try.func45, Try.ntmps45
  go_wp2_with (first | ((with_reducible show wpList _ _ _ (⟨some 0, .alloc 23, _, _, _, _⟩ :: _) _ _); go_must (refine wpList_alloc_row rfl 23 rfl (.agg (zbs 32)) zero23 ?_; intro u1 ha1 hza1 hga1; have Ngr_1 : Hid (RAt u1 w.heap.size [0]) := Lib.hid (zrow (k := 1) ha1); have HF_1 : Hid (Below w.heap.size w u1) := Lib.hid (HF_0.out.grown hga1 HF_0.out.size (by simp)); have HGE1 : Hid (w.heap.size ≤ w.heap.size) := Lib.hid HF_0.out.size; clear ha1 hza1 hga1 HF_0)) | ((with_reducible show wpList _ _ _ (⟨some 1, .build 23 _, _, _, _, _⟩ :: _) _ _); go_must (refine wpList_exec rfl (vN dN) (exec_buildc rfl (by kernel_rfl)) ?_)) | ((with_reducible show wpList _ _ _ (⟨none, .store 23 (.tmp 0) (.tmp 1), _, _, _, _⟩ :: _) _ _); go_must (refine wpList_storeF rfl (.tmp 0) (.tmp 1) rfl (w.heap.size) 0 0 rfl [0] dN rfl rfl Ngr_1.out (show 0 < 1 by omega) ?_; intro y2 hr2 hg2 hz2; have Ngr_2 : Hid (RAt y2 w.heap.size [dN]) := Lib.hid hr2; have HF_2 : Hid (Below w.heap.size w y2) := Lib.hid (HF_1.out.grown hg2 HF_1.out.size (fun r hr => by injection hr with hr; have := HGE1.out; omega)); clear hr2 hg2 hz2 Ngr_1 HF_1)) | fail)
  obtain ⟨tr, htr⟩ := Ngr_2.out
  refine bodyPost_ret (results_cell_row rfl _ _ w.heap.size tr (bcs (encs [dN])).toArray _ _ rfl htr under23 rfl (by rw [List.size_toArray, bcs_len, encs_len]; exact size23)) rfl ?_
  exact ⟨by rw [← vR_one]; rfl, HF_2.out⟩

set_option maxHeartbeats 1000000 in
theorem Zero_any (w : World) : Calls Try.prog 39 #[] w (Gives (vR [0, 1]) w) := by
  have HF_0 : Hid (Below w.heap.size w w) := Lib.hid (Below.refl _ _)
  go_enter Try.func39, Try.ntmps39
  go_wp2_with (first | ((with_reducible show wpList _ _ _ (⟨some 0, .alloc 35, _, _, _, _⟩ :: _) _ _); go_must (refine wpList_alloc_row rfl 35 rfl (.agg (zbs 64)) zero35 ?_; intro u3 ha3 hza3 hga3; have Ngr_3 : Hid (RAt u3 w.heap.size [0, 0]) := Lib.hid (zrow (k := 2) ha3); have HF_3 : Hid (Below w.heap.size w u3) := Lib.hid (HF_0.out.grown hga3 HF_0.out.size (by simp)); have HGE3 : Hid (w.heap.size ≤ w.heap.size) := Lib.hid HF_0.out.size; clear ha3 hza3 hga3 HF_0)) | ((with_reducible show wpList _ _ _ (⟨some 1, .build 23 _, _, _, _, _⟩ :: _) _ _); go_must (refine wpList_exec rfl (vN 1) (exec_buildc rfl (by kernel_rfl)) ?_)) | ((with_reducible show wpList _ _ _ (⟨some 2, .build 35 _, _, _, _, _⟩ :: _) _ _); go_must (refine wpList_exec rfl (vR [0, 1]) (exec_build35_1 (.tmp 1) 1 rfl rfl) ?_)) | ((with_reducible show wpList _ _ _ (⟨none, .store 35 (.tmp 0) (.tmp 2), _, _, _, _⟩ :: _) _ _); go_must (refine wpList_storeP rfl (.tmp 0) (.tmp 2) rfl (w.heap.size) [0, 0] 0 1 rfl rfl Ngr_3.out rfl ?_; intro y4 hr4 hg4 hz4; have Ngr_4 : Hid (RAt y4 w.heap.size [0, 1]) := Lib.hid hr4; have HF_4 : Hid (Below w.heap.size w y4) := Lib.hid (HF_3.out.grown hg4 HF_3.out.size (fun r hr => by injection hr with hr; have := HGE3.out; omega)); clear hr4 hg4 hz4 Ngr_3 HF_3)) | fail)
  go_wp2_with fail
  obtain ⟨tr, htr⟩ := Ngr_4.out
  refine bodyPost_ret (results_cell_row rfl _ _ w.heap.size tr (bcs (encs [0, 1])).toArray _ _ rfl htr Try.underlying35 rfl (by rw [List.size_toArray, bcs_len, encs_len]; exact size35)) rfl ?_
  exact ⟨rfl, HF_4.out⟩

set_option maxHeartbeats 1000000 in
theorem Base_any (w : World) : Calls Try.prog 42 #[] w (Gives (vR [bxN, byN]) w) := by
  have HF_0 : Hid (Below w.heap.size w w) := Lib.hid (Below.refl _ _)
  go_enter Try.func42, Try.ntmps42
  go_wp2_with (first | ((with_reducible show wpList _ _ _ (⟨some 0, .alloc 35, _, _, _, _⟩ :: _) _ _); go_must (refine wpList_alloc_row rfl 35 rfl (.agg (zbs 64)) zero35 ?_; intro u5 ha5 hza5 hga5; have Ngr_5 : Hid (RAt u5 w.heap.size [0, 0]) := Lib.hid (zrow (k := 2) ha5); have HF_5 : Hid (Below w.heap.size w u5) := Lib.hid (HF_0.out.grown hga5 HF_0.out.size (by simp)); have HGE5 : Hid (w.heap.size ≤ w.heap.size) := Lib.hid HF_0.out.size; clear ha5 hza5 hga5 HF_0)) | ((with_reducible show wpList _ _ _ (⟨some 1, .build 23 _, _, _, _, _⟩ :: _) _ _); go_must (refine wpList_exec rfl (vN bxN) (exec_buildc rfl (by kernel_rfl)) ?_)) | ((with_reducible show wpList _ _ _ (⟨some 2, .build 23 _, _, _, _, _⟩ :: _) _ _); go_must (refine wpList_exec rfl (vN byN) (exec_buildc rfl (by kernel_rfl)) ?_)) | ((with_reducible show wpList _ _ _ (⟨some 3, .build 35 _, _, _, _, _⟩ :: _) _ _); go_must (refine wpList_exec rfl (vR [bxN, byN]) (exec_build35 (.tmp 1) (.tmp 2) bxN byN rfl rfl rfl) ?_)) | ((with_reducible show wpList _ _ _ (⟨none, .store 35 (.tmp 0) (.tmp 3), _, _, _, _⟩ :: _) _ _); go_must (refine wpList_storeP rfl (.tmp 0) (.tmp 3) rfl (w.heap.size) [0, 0] bxN byN rfl rfl Ngr_5.out rfl ?_; intro y6 hr6 hg6 hz6; have Ngr_6 : Hid (RAt y6 w.heap.size [bxN, byN]) := Lib.hid hr6; have HF_6 : Hid (Below w.heap.size w y6) := Lib.hid (HF_5.out.grown hg6 HF_5.out.size (fun r hr => by injection hr with hr; have := HGE5.out; omega)); clear hr6 hg6 hz6 Ngr_5 HF_5)) | fail)
  go_wp2_with fail
  obtain ⟨tr, htr⟩ := Ngr_6.out
  refine bodyPost_ret (results_cell_row rfl _ _ w.heap.size tr (bcs (encs [bxN, byN])).toArray _ _ rfl htr Try.underlying35 rfl (by rw [List.size_toArray, bcs_len, encs_len]; exact size35)) rfl ?_
  exact ⟨rfl, HF_6.out⟩

set_option maxHeartbeats 4000000 in
theorem onCurve_core (x y xx yy l dd m dm r : Nat) (b : Bool) (w : World)
    (C0 : Hid (∀ w, Calls Try.prog 25 #[vN x, vN x] w (Gives (vN xx) w)))
    (C1 : Hid (∀ w, Calls Try.prog 25 #[vN y, vN y] w (Gives (vN yy) w)))
    (C2 : Hid (∀ w, Calls Try.prog 21 #[vN yy, vN xx] w (Gives (vN l) w)))
    (C3 : Hid (∀ w, Calls Try.prog 17 #[.int .u64 1] w (Gives (vN 1) w)))
    (C4 : Hid (∀ w, Calls Try.prog 45 #[] w (Gives (vN dd) w)))
    (C5 : Hid (∀ w, Calls Try.prog 25 #[vN xx, vN yy] w (Gives (vN m) w)))
    (C6 : Hid (∀ w, Calls Try.prog 25 #[vN dd, vN m] w (Gives (vN dm) w)))
    (C7 : Hid (∀ w, Calls Try.prog 19 #[vN 1, vN dm] w (Gives (vN r) w)))
    (HE : Hid (∀ w, (Op.equalIn 10000 23 (vN l) (vN r)).run Try.prog w = .ok b w)) :
    Calls Try.prog 79 #[vR [x, y]] w (Gives (.bool b) w) := by
  have HF_0 : Hid (Below w.heap.size w w) := Lib.hid (Below.refl _ _)
  go_enter Try.func79, Try.ntmps79
  go_wp2_with (first | ((with_reducible show wpList _ _ _ (⟨some 1, .box 35 (.tmp 0), _, _, _, _⟩ :: _) _ _); go_must (refine wpList_box_row rfl 35 (.tmp 0) rfl (bcs (encs [x, y])).toArray rfl ?_; intro u7 ha7 hza7 hga7; have Ngp_7 : Hid (RAt u7 w.heap.size [x, y]) := Lib.hid (⟨_, ha7⟩); have HF_7 : Hid (Below w.heap.size w u7) := Lib.hid (HF_0.out.grown hga7 HF_0.out.size (by simp)); have HGE7 : Hid (w.heap.size ≤ w.heap.size) := Lib.hid HF_0.out.size; clear ha7 hza7 hga7 HF_0)) | fail)
  have HLT8_0 := lR Ngp_7
  have HLO8 : Hid (w.heap.size ≤ u7.heap.size) := Lib.hid HF_7.out.size
  refine region_split (fun a' W => ∃ a8_0 a8_1, RAt W w.heap.size [x, y] ∧ RAt W a8_0 [xx] ∧ RAt W a8_1 [yy] ∧ u7.heap.size ≤ a8_0 ∧ u7.heap.size ≤ a8_1 ∧ a8_1 ≠ a8_0 ∧ Below w.heap.size w W ∧ a' = ⟨#[vR [x, y], .pointer (some ⟨w.heap.size, 0, none⟩), .bool false, .pointer (some ⟨a8_0, 0, none⟩), .pointer (some ⟨a8_1, 0, none⟩), .pointer (some ⟨w.heap.size, 0, none⟩), vN x, .pointer (some ⟨w.heap.size, 0, none⟩), vN x, vN xx, .pointer (some ⟨w.heap.size, 32, none⟩), vN y, .pointer (some ⟨w.heap.size, 32, none⟩), vN y, vN yy, undef, undef, undef, undef, undef, undef, undef, undef, undef, undef, undef], []⟩) ?_ ?_
  · refine startW (fun j => j == 12 || j == 13) (u7.heap.size) (by kernel_rfl) ?_
    obtain ⟨D8, hD8⟩ : ∃ D, D = u7.drew := ⟨_, rfl⟩
    rw [← hD8]
    have HL_8 := dLq hD8
    have Ngp_8 := dRq hD8 Ngp_7
    have HF_8 : Hid (Below w.heap.size w D8) := Lib.hid (by rw [hD8]; exact below_drewN' HF_7.out 1)
    clear hD8 Ngp_7 HF_7
    refine tA (i := 0) (oi := oEF0) ?_
    refine ⟨.pointer (some ⟨w.heap.size, 0, none⟩), fun w' => exec_field 35 (.tmp 1) 0 rfl _ 0 rfl (fld35_0 _), ?_⟩
    simp only [oEF0, Act.put, zA, zB, zC]
    refine takeT (i := 1) (oi := oEF1) (vN x) rfl (by kernel_rfl) (by kernel_rfl) (by kernel_rfl) (by kernel_rfl) (by kernel_rfl) (fun _ _ _ h => nomatch h.1) (by rfl) (fun w' hk => exec_loadF (.tmp 5) rfl (w.heap.size) 0 0 rfl [x, y] x rfl (Ngp_8.out.below hk HLT8_0.out) rfl) ?_
    simp only [oEF1, Act.put, zA, zB, zC]
    refine tA (i := 2) (oi := oEF2) ?_
    refine ⟨.pointer (some ⟨w.heap.size, 0, none⟩), fun w' => exec_field 35 (.tmp 1) 0 rfl _ 0 rfl (fld35_0 _), ?_⟩
    simp only [oEF2, Act.put, zA, zB, zC]
    refine takeT (i := 3) (oi := oEF3) (vN x) rfl (by kernel_rfl) (by kernel_rfl) (by kernel_rfl) (by kernel_rfl) (by kernel_rfl) (fun _ _ _ h => nomatch h.1) (by rfl) (fun w' hk => exec_loadF (.tmp 7) rfl (w.heap.size) 0 0 rfl [x, y] x rfl (Ngp_8.out.below hk HLT8_0.out) rfl) ?_
    simp only [oEF3, Act.put, zA, zB, zC]
    refine tA (i := 5) (oi := oEF4) ?_
    refine ⟨.pointer (some ⟨w.heap.size, 32, none⟩), fun w' => exec_field 35 (.tmp 1) 1 rfl _ 32 rfl (fld35_1 _), ?_⟩
    simp only [oEF4, Act.put, zA, zB, zC]
    refine takeT (i := 6) (oi := oEF5) (vN y) rfl (by kernel_rfl) (by kernel_rfl) (by kernel_rfl) (by kernel_rfl) (by kernel_rfl) (fun _ _ _ h => nomatch h.1) (by rfl) (fun w' hk => exec_loadF (.tmp 10) rfl (w.heap.size) 1 32 rfl [x, y] y rfl (Ngp_8.out.below hk HLT8_0.out) rfl) ?_
    simp only [oEF5, Act.put, zA, zB, zC]
    refine tA (i := 7) (oi := oEF6) ?_
    refine ⟨.pointer (some ⟨w.heap.size, 32, none⟩), fun w' => exec_field 35 (.tmp 1) 1 rfl _ 32 rfl (fld35_1 _), ?_⟩
    simp only [oEF6, Act.put, zA, zB, zC]
    refine takeT (i := 8) (oi := oEF7) (vN y) rfl (by kernel_rfl) (by kernel_rfl) (by kernel_rfl) (by kernel_rfl) (by kernel_rfl) (fun _ _ _ h => nomatch h.1) (by rfl) (fun w' hk => exec_loadF (.tmp 12) rfl (w.heap.size) 1 32 rfl [x, y] y rfl (Ngp_8.out.below hk HLT8_0.out) rfl) ?_
    simp only [oEF7, Act.put, zA, zB, zC]
    refine eachW [4, 10, 11] (by kernel_rfl) (by simp) ?_
    intro k hk
    simp only [zM, zN, or_false] at hk
    rcases hk with rfl | rfl | rfl
    · refine wpOp_call (i := 4) (oi := oEF8) rfl (by rfl) (exec_callL 25 [.tmp 6, .tmp 8] #[23, 23] rfl [vN x, vN x] rfl (CG25 _)) ((C0.out D8).mono ?_)
      rintro e9 W9 ⟨rfl, hb9⟩
      refine ⟨_, rfl, fun _ => hb9.mono HL_8.out, ?_⟩
      have Ngp_9 := hKq Ngp_8 hb9
      have HF_9 := fTq HF_8 hb9
      have HL_9 := lT HL_8 hb9
      clear hb9 HL_8 Ngp_8 HF_8
      simp only [oEF8, Act.put, zA, zB, zC]
      refine eachW [9, 10, 11] (by kernel_rfl) (by simp) ?_
      intro k hk
      simp only [zM, zN, or_false] at hk
      rcases hk with rfl | rfl | rfl
      · refine wpOp_call (i := 9) (oi := oEF9) rfl (by rfl) (exec_callL 25 [.tmp 11, .tmp 13] #[23, 23] rfl [vN y, vN y] rfl (CG25 _)) ((C1.out W9).mono ?_)
        rintro e10 W10 ⟨rfl, hb10⟩
        refine ⟨_, rfl, fun _ => hb10.mono HL_9.out, ?_⟩
        have Ngp_10 := hKq Ngp_9 hb10
        have HF_10 := fTq HF_9 hb10
        have HL_10 := lT HL_9 hb10
        clear hb10 HL_9 Ngp_9 HF_9
        simp only [oEF9, Act.put, zA, zB, zC]
        refine eachW [10, 11] (by kernel_rfl) (by simp) ?_
        intro k hk
        simp only [zM, zN, or_false] at hk
        rcases hk with rfl | rfl
        · refine wpOp_value (i := 10) (oi := oEF10) rfl (by rfl) (exec_alloc 23 rfl (.agg (zbs 32)) zero23 W10) ⟨fun _ => (below_alloc W10 _).mono HL_10.out, ?_⟩
          obtain ⟨W11, hW11, hb11, hz11⟩ := alloc_zero W10
          rw [← hW11]
          obtain ⟨g11, hg11⟩ : ∃ g, g = W10.heap.size := ⟨_, rfl⟩
          rw [← hg11] at hz11 ⊢
          have HG11 := gE hg11 HL_10
          have HX11_0 := nXq Ngp_10 hg11
          have Ngp_11 := hKq Ngp_10 hb11
          have HF_11 := fTq HF_10 hb11
          have HL_11 := lT HL_10 hb11
          have RZ11_11 := zrq hz11
          clear hb11 hz11 hg11 hW11 HL_10 Ngp_10 HF_10
          simp only [oEF10, Act.put, zA, zB, zC]
          refine opW _ _ (i := 11) (oi := oEF11) rfl (by kernel_rfl) (by rfl) (exec_alloc 23 rfl (.agg (zbs 32)) zero23 W11) (fun _ => (below_alloc W11 _).mono HL_11.out) ?_
          obtain ⟨W12, hW12, hb12, hz12⟩ := alloc_zero W11
          rw [← hW12]
          obtain ⟨g12, hg12⟩ : ∃ g, g = W11.heap.size := ⟨_, rfl⟩
          rw [← hg12] at hz12 ⊢
          have HG12 := gE hg12 HL_11
          have HX12_1 := nXq Ngp_11 hg12
          have HX12_2 := nXq RZ11_11 hg12
          have Ngp_12 := hKq Ngp_11 hb12
          have RZ11_12 := hKq RZ11_11 hb12
          have HF_12 := fTq HF_11 hb12
          have HL_12 := lT HL_11 hb12
          have RZ12_12 := zrq hz12
          clear hb12 hz12 hg12 hW12 HL_11 Ngp_11 RZ11_11 HF_11
          simp only [oEF11, Act.put, zA, zB, zC]
          refine storeW_F (i := 12) (oi := oEF12) rfl (by kernel_rfl) (by rfl) (.tmp 3) (.tmp 9) rfl (g11) 0 0 rfl [0] xx rfl rfl RZ11_12.out (show 0 < 1 by omega) rfl ?_
          intro W13 hr13 hg13 hz13
          simp only [oEF12, Act.put, zA, zB, zC]
          have Ngp_13 := hGq Ngp_12 hg13 HX11_0
          have RZ11_13 : Hid (RAt W13 g11 [xx]) := Lib.hid hr13
          have RZ12_13 := hGq RZ12_12 hg13 HX12_2
          have HF_13 := fBq HF_12 hg13 HG11 HLO8
          have HL_13 := lG HL_12 hg13
          clear hr13 hg13 hz13 HL_12 Ngp_12 RZ11_12 RZ12_12 HF_12
          refine storeW_F (i := 13) (oi := oEF13) rfl (by kernel_rfl) (by rfl) (.tmp 4) (.tmp 14) rfl (g12) 0 0 rfl [0] yy rfl rfl RZ12_13.out (show 0 < 1 by omega) rfl ?_
          intro W14 hr14 hg14 hz14
          simp only [oEF13, Act.put, zA, zB, zC]
          have Ngp_14 := hGq Ngp_13 hg14 HX12_1
          have RZ11_14 := hGq RZ11_13 hg14 HX12_2
          have RZ12_14 : Hid (RAt W14 g12 [yy]) := Lib.hid hr14
          have HF_14 := fBq HF_13 hg14 HG12 HLO8
          have HL_14 := lG HL_13 hg14
          clear hr14 hg14 hz14 HL_13 Ngp_13 RZ11_13 RZ12_13 HF_13
          refine doneW (by kernel_rfl) ⟨rfl, ?_⟩ _
          exact ⟨g11, g12, Ngp_14.out, RZ11_14.out, RZ12_14.out, HG11.out, HG12.out, (by have := HX12_2.out; omega), HF_14.out, rfl⟩
        · refine wpOp_value (i := 11) (oi := oEF11) rfl (by rfl) (exec_alloc 23 rfl (.agg (zbs 32)) zero23 W10) ⟨fun _ => (below_alloc W10 _).mono HL_10.out, ?_⟩
          obtain ⟨W15, hW15, hb15, hz15⟩ := alloc_zero W10
          rw [← hW15]
          obtain ⟨g15, hg15⟩ : ∃ g, g = W10.heap.size := ⟨_, rfl⟩
          rw [← hg15] at hz15 ⊢
          have HG15 := gE hg15 HL_10
          have HX15_0 := nXq Ngp_10 hg15
          have Ngp_15 := hKq Ngp_10 hb15
          have HF_15 := fTq HF_10 hb15
          have HL_15 := lT HL_10 hb15
          have RZ15_15 := zrq hz15
          clear hb15 hz15 hg15 hW15 HL_10 Ngp_10 HF_10
          simp only [oEF11, Act.put, zA, zB, zC]
          refine opW _ _ (i := 10) (oi := oEF10) rfl (by kernel_rfl) (by rfl) (exec_alloc 23 rfl (.agg (zbs 32)) zero23 W15) (fun _ => (below_alloc W15 _).mono HL_15.out) ?_
          obtain ⟨W16, hW16, hb16, hz16⟩ := alloc_zero W15
          rw [← hW16]
          obtain ⟨g16, hg16⟩ : ∃ g, g = W15.heap.size := ⟨_, rfl⟩
          rw [← hg16] at hz16 ⊢
          have HG16 := gE hg16 HL_15
          have HX16_1 := nXq Ngp_15 hg16
          have HX16_2 := nXq RZ15_15 hg16
          have Ngp_16 := hKq Ngp_15 hb16
          have RZ15_16 := hKq RZ15_15 hb16
          have HF_16 := fTq HF_15 hb16
          have HL_16 := lT HL_15 hb16
          have RZ16_16 := zrq hz16
          clear hb16 hz16 hg16 hW16 HL_15 Ngp_15 RZ15_15 HF_15
          simp only [oEF10, Act.put, zA, zB, zC]
          refine storeW_F (i := 12) (oi := oEF12) rfl (by kernel_rfl) (by rfl) (.tmp 3) (.tmp 9) rfl (g16) 0 0 rfl [0] xx rfl rfl RZ16_16.out (show 0 < 1 by omega) rfl ?_
          intro W17 hr17 hg17 hz17
          simp only [oEF12, Act.put, zA, zB, zC]
          have Ngp_17 := hGq Ngp_16 hg17 HX16_1
          have RZ15_17 := hGq RZ15_16 hg17 HX16_2
          have RZ16_17 : Hid (RAt W17 g16 [xx]) := Lib.hid hr17
          have HF_17 := fBq HF_16 hg17 HG16 HLO8
          have HL_17 := lG HL_16 hg17
          clear hr17 hg17 hz17 HL_16 Ngp_16 RZ15_16 RZ16_16 HF_16
          refine storeW_F (i := 13) (oi := oEF13) rfl (by kernel_rfl) (by rfl) (.tmp 4) (.tmp 14) rfl (g15) 0 0 rfl [0] yy rfl rfl RZ15_17.out (show 0 < 1 by omega) rfl ?_
          intro W18 hr18 hg18 hz18
          simp only [oEF13, Act.put, zA, zB, zC]
          have Ngp_18 := hGq Ngp_17 hg18 HX15_0
          have RZ15_18 : Hid (RAt W18 g15 [yy]) := Lib.hid hr18
          have RZ16_18 := hGq RZ16_17 hg18 HX16_2
          have HF_18 := fBq HF_17 hg18 HG15 HLO8
          have HL_18 := lG HL_17 hg18
          clear hr18 hg18 hz18 HL_17 Ngp_17 RZ15_17 RZ16_17 HF_17
          refine doneW (by kernel_rfl) ⟨rfl, ?_⟩ _
          exact ⟨g16, g15, Ngp_18.out, RZ16_18.out, RZ15_18.out, HG16.out, HG15.out, (by have := HX16_2.out; omega), HF_18.out, rfl⟩
      · refine wpOp_value (i := 10) (oi := oEF10) rfl (by rfl) (exec_alloc 23 rfl (.agg (zbs 32)) zero23 W9) ⟨fun _ => (below_alloc W9 _).mono HL_9.out, ?_⟩
        obtain ⟨W19, hW19, hb19, hz19⟩ := alloc_zero W9
        rw [← hW19]
        obtain ⟨g19, hg19⟩ : ∃ g, g = W9.heap.size := ⟨_, rfl⟩
        rw [← hg19] at hz19 ⊢
        have HG19 := gE hg19 HL_9
        have HX19_0 := nXq Ngp_9 hg19
        have Ngp_19 := hKq Ngp_9 hb19
        have HF_19 := fTq HF_9 hb19
        have HL_19 := lT HL_9 hb19
        have RZ19_19 := zrq hz19
        clear hb19 hz19 hg19 hW19 HL_9 Ngp_9 HF_9
        simp only [oEF10, Act.put, zA, zB, zC]
        refine eachW [9, 11] (by kernel_rfl) (by simp) ?_
        intro k hk
        simp only [zM, zN, or_false] at hk
        rcases hk with rfl | rfl
        · refine wpOp_call (i := 9) (oi := oEF9) rfl (by rfl) (exec_callL 25 [.tmp 11, .tmp 13] #[23, 23] rfl [vN y, vN y] rfl (CG25 _)) ((C1.out W19).mono ?_)
          rintro e20 W20 ⟨rfl, hb20⟩
          refine ⟨_, rfl, fun _ => hb20.mono HL_19.out, ?_⟩
          have Ngp_20 := hKq Ngp_19 hb20
          have RZ19_20 := hKq RZ19_19 hb20
          have HF_20 := fTq HF_19 hb20
          have HL_20 := lT HL_19 hb20
          clear hb20 HL_19 Ngp_19 RZ19_19 HF_19
          simp only [oEF9, Act.put, zA, zB, zC]
          refine opW _ _ (i := 11) (oi := oEF11) rfl (by kernel_rfl) (by rfl) (exec_alloc 23 rfl (.agg (zbs 32)) zero23 W20) (fun _ => (below_alloc W20 _).mono HL_20.out) ?_
          obtain ⟨W21, hW21, hb21, hz21⟩ := alloc_zero W20
          rw [← hW21]
          obtain ⟨g21, hg21⟩ : ∃ g, g = W20.heap.size := ⟨_, rfl⟩
          rw [← hg21] at hz21 ⊢
          have HG21 := gE hg21 HL_20
          have HX21_1 := nXq Ngp_20 hg21
          have HX21_2 := nXq RZ19_20 hg21
          have Ngp_21 := hKq Ngp_20 hb21
          have RZ19_21 := hKq RZ19_20 hb21
          have HF_21 := fTq HF_20 hb21
          have HL_21 := lT HL_20 hb21
          have RZ21_21 := zrq hz21
          clear hb21 hz21 hg21 hW21 HL_20 Ngp_20 RZ19_20 HF_20
          simp only [oEF11, Act.put, zA, zB, zC]
          refine storeW_F (i := 12) (oi := oEF12) rfl (by kernel_rfl) (by rfl) (.tmp 3) (.tmp 9) rfl (g19) 0 0 rfl [0] xx rfl rfl RZ19_21.out (show 0 < 1 by omega) rfl ?_
          intro W22 hr22 hg22 hz22
          simp only [oEF12, Act.put, zA, zB, zC]
          have Ngp_22 := hGq Ngp_21 hg22 HX19_0
          have RZ19_22 : Hid (RAt W22 g19 [xx]) := Lib.hid hr22
          have RZ21_22 := hGq RZ21_21 hg22 HX21_2
          have HF_22 := fBq HF_21 hg22 HG19 HLO8
          have HL_22 := lG HL_21 hg22
          clear hr22 hg22 hz22 HL_21 Ngp_21 RZ19_21 RZ21_21 HF_21
          refine storeW_F (i := 13) (oi := oEF13) rfl (by kernel_rfl) (by rfl) (.tmp 4) (.tmp 14) rfl (g21) 0 0 rfl [0] yy rfl rfl RZ21_22.out (show 0 < 1 by omega) rfl ?_
          intro W23 hr23 hg23 hz23
          simp only [oEF13, Act.put, zA, zB, zC]
          have Ngp_23 := hGq Ngp_22 hg23 HX21_1
          have RZ19_23 := hGq RZ19_22 hg23 HX21_2
          have RZ21_23 : Hid (RAt W23 g21 [yy]) := Lib.hid hr23
          have HF_23 := fBq HF_22 hg23 HG21 HLO8
          have HL_23 := lG HL_22 hg23
          clear hr23 hg23 hz23 HL_22 Ngp_22 RZ19_22 RZ21_22 HF_22
          refine doneW (by kernel_rfl) ⟨rfl, ?_⟩ _
          exact ⟨g19, g21, Ngp_23.out, RZ19_23.out, RZ21_23.out, HG19.out, HG21.out, (by have := HX21_2.out; omega), HF_23.out, rfl⟩
        · refine wpOp_value (i := 11) (oi := oEF11) rfl (by rfl) (exec_alloc 23 rfl (.agg (zbs 32)) zero23 W19) ⟨fun _ => (below_alloc W19 _).mono HL_19.out, ?_⟩
          obtain ⟨W24, hW24, hb24, hz24⟩ := alloc_zero W19
          rw [← hW24]
          obtain ⟨g24, hg24⟩ : ∃ g, g = W19.heap.size := ⟨_, rfl⟩
          rw [← hg24] at hz24 ⊢
          have HG24 := gE hg24 HL_19
          have HX24_1 := nXq Ngp_19 hg24
          have HX24_2 := nXq RZ19_19 hg24
          have Ngp_24 := hKq Ngp_19 hb24
          have RZ19_24 := hKq RZ19_19 hb24
          have HF_24 := fTq HF_19 hb24
          have HL_24 := lT HL_19 hb24
          have RZ24_24 := zrq hz24
          clear hb24 hz24 hg24 hW24 HL_19 Ngp_19 RZ19_19 HF_19
          simp only [oEF11, Act.put, zA, zB, zC]
          refine callW (i := 9) (oi := oEF9) rfl (by kernel_rfl) (by rfl) (exec_callL 25 [.tmp 11, .tmp 13] #[23, 23] rfl [vN y, vN y] rfl (CG25 _)) ((C1.out W24).mono ?_)
          rintro e25 W25 ⟨rfl, hb25⟩
          refine ⟨_, rfl, fun _ => hb25.mono HL_24.out, ?_⟩
          have Ngp_25 := hKq Ngp_24 hb25
          have RZ19_25 := hKq RZ19_24 hb25
          have RZ24_25 := hKq RZ24_24 hb25
          have HF_25 := fTq HF_24 hb25
          have HL_25 := lT HL_24 hb25
          clear hb25 HL_24 Ngp_24 RZ19_24 RZ24_24 HF_24
          simp only [oEF9, Act.put, zA, zB, zC]
          refine storeW_F (i := 12) (oi := oEF12) rfl (by kernel_rfl) (by rfl) (.tmp 3) (.tmp 9) rfl (g19) 0 0 rfl [0] xx rfl rfl RZ19_25.out (show 0 < 1 by omega) rfl ?_
          intro W26 hr26 hg26 hz26
          simp only [oEF12, Act.put, zA, zB, zC]
          have Ngp_26 := hGq Ngp_25 hg26 HX19_0
          have RZ19_26 : Hid (RAt W26 g19 [xx]) := Lib.hid hr26
          have RZ24_26 := hGq RZ24_25 hg26 HX24_2
          have HF_26 := fBq HF_25 hg26 HG19 HLO8
          have HL_26 := lG HL_25 hg26
          clear hr26 hg26 hz26 HL_25 Ngp_25 RZ19_25 RZ24_25 HF_25
          refine storeW_F (i := 13) (oi := oEF13) rfl (by kernel_rfl) (by rfl) (.tmp 4) (.tmp 14) rfl (g24) 0 0 rfl [0] yy rfl rfl RZ24_26.out (show 0 < 1 by omega) rfl ?_
          intro W27 hr27 hg27 hz27
          simp only [oEF13, Act.put, zA, zB, zC]
          have Ngp_27 := hGq Ngp_26 hg27 HX24_1
          have RZ19_27 := hGq RZ19_26 hg27 HX24_2
          have RZ24_27 : Hid (RAt W27 g24 [yy]) := Lib.hid hr27
          have HF_27 := fBq HF_26 hg27 HG24 HLO8
          have HL_27 := lG HL_26 hg27
          clear hr27 hg27 hz27 HL_26 Ngp_26 RZ19_26 RZ24_26 HF_26
          refine doneW (by kernel_rfl) ⟨rfl, ?_⟩ _
          exact ⟨g19, g24, Ngp_27.out, RZ19_27.out, RZ24_27.out, HG19.out, HG24.out, (by have := HX24_2.out; omega), HF_27.out, rfl⟩
      · refine wpOp_value (i := 11) (oi := oEF11) rfl (by rfl) (exec_alloc 23 rfl (.agg (zbs 32)) zero23 W9) ⟨fun _ => (below_alloc W9 _).mono HL_9.out, ?_⟩
        obtain ⟨W28, hW28, hb28, hz28⟩ := alloc_zero W9
        rw [← hW28]
        obtain ⟨g28, hg28⟩ : ∃ g, g = W9.heap.size := ⟨_, rfl⟩
        rw [← hg28] at hz28 ⊢
        have HG28 := gE hg28 HL_9
        have HX28_0 := nXq Ngp_9 hg28
        have Ngp_28 := hKq Ngp_9 hb28
        have HF_28 := fTq HF_9 hb28
        have HL_28 := lT HL_9 hb28
        have RZ28_28 := zrq hz28
        clear hb28 hz28 hg28 hW28 HL_9 Ngp_9 HF_9
        simp only [oEF11, Act.put, zA, zB, zC]
        refine eachW [9, 10] (by kernel_rfl) (by simp) ?_
        intro k hk
        simp only [zM, zN, or_false] at hk
        rcases hk with rfl | rfl
        · refine wpOp_call (i := 9) (oi := oEF9) rfl (by rfl) (exec_callL 25 [.tmp 11, .tmp 13] #[23, 23] rfl [vN y, vN y] rfl (CG25 _)) ((C1.out W28).mono ?_)
          rintro e29 W29 ⟨rfl, hb29⟩
          refine ⟨_, rfl, fun _ => hb29.mono HL_28.out, ?_⟩
          have Ngp_29 := hKq Ngp_28 hb29
          have RZ28_29 := hKq RZ28_28 hb29
          have HF_29 := fTq HF_28 hb29
          have HL_29 := lT HL_28 hb29
          clear hb29 HL_28 Ngp_28 RZ28_28 HF_28
          simp only [oEF9, Act.put, zA, zB, zC]
          refine opW _ _ (i := 10) (oi := oEF10) rfl (by kernel_rfl) (by rfl) (exec_alloc 23 rfl (.agg (zbs 32)) zero23 W29) (fun _ => (below_alloc W29 _).mono HL_29.out) ?_
          obtain ⟨W30, hW30, hb30, hz30⟩ := alloc_zero W29
          rw [← hW30]
          obtain ⟨g30, hg30⟩ : ∃ g, g = W29.heap.size := ⟨_, rfl⟩
          rw [← hg30] at hz30 ⊢
          have HG30 := gE hg30 HL_29
          have HX30_1 := nXq Ngp_29 hg30
          have HX30_2 := nXq RZ28_29 hg30
          have Ngp_30 := hKq Ngp_29 hb30
          have RZ28_30 := hKq RZ28_29 hb30
          have HF_30 := fTq HF_29 hb30
          have HL_30 := lT HL_29 hb30
          have RZ30_30 := zrq hz30
          clear hb30 hz30 hg30 hW30 HL_29 Ngp_29 RZ28_29 HF_29
          simp only [oEF10, Act.put, zA, zB, zC]
          refine storeW_F (i := 12) (oi := oEF12) rfl (by kernel_rfl) (by rfl) (.tmp 3) (.tmp 9) rfl (g30) 0 0 rfl [0] xx rfl rfl RZ30_30.out (show 0 < 1 by omega) rfl ?_
          intro W31 hr31 hg31 hz31
          simp only [oEF12, Act.put, zA, zB, zC]
          have Ngp_31 := hGq Ngp_30 hg31 HX30_1
          have RZ28_31 := hGq RZ28_30 hg31 HX30_2
          have RZ30_31 : Hid (RAt W31 g30 [xx]) := Lib.hid hr31
          have HF_31 := fBq HF_30 hg31 HG30 HLO8
          have HL_31 := lG HL_30 hg31
          clear hr31 hg31 hz31 HL_30 Ngp_30 RZ28_30 RZ30_30 HF_30
          refine storeW_F (i := 13) (oi := oEF13) rfl (by kernel_rfl) (by rfl) (.tmp 4) (.tmp 14) rfl (g28) 0 0 rfl [0] yy rfl rfl RZ28_31.out (show 0 < 1 by omega) rfl ?_
          intro W32 hr32 hg32 hz32
          simp only [oEF13, Act.put, zA, zB, zC]
          have Ngp_32 := hGq Ngp_31 hg32 HX28_0
          have RZ28_32 : Hid (RAt W32 g28 [yy]) := Lib.hid hr32
          have RZ30_32 := hGq RZ30_31 hg32 HX30_2
          have HF_32 := fBq HF_31 hg32 HG28 HLO8
          have HL_32 := lG HL_31 hg32
          clear hr32 hg32 hz32 HL_31 Ngp_31 RZ28_31 RZ30_31 HF_31
          refine doneW (by kernel_rfl) ⟨rfl, ?_⟩ _
          exact ⟨g30, g28, Ngp_32.out, RZ30_32.out, RZ28_32.out, HG30.out, HG28.out, (by have := HX30_2.out; omega), HF_32.out, rfl⟩
        · refine wpOp_value (i := 10) (oi := oEF10) rfl (by rfl) (exec_alloc 23 rfl (.agg (zbs 32)) zero23 W28) ⟨fun _ => (below_alloc W28 _).mono HL_28.out, ?_⟩
          obtain ⟨W33, hW33, hb33, hz33⟩ := alloc_zero W28
          rw [← hW33]
          obtain ⟨g33, hg33⟩ : ∃ g, g = W28.heap.size := ⟨_, rfl⟩
          rw [← hg33] at hz33 ⊢
          have HG33 := gE hg33 HL_28
          have HX33_1 := nXq Ngp_28 hg33
          have HX33_2 := nXq RZ28_28 hg33
          have Ngp_33 := hKq Ngp_28 hb33
          have RZ28_33 := hKq RZ28_28 hb33
          have HF_33 := fTq HF_28 hb33
          have HL_33 := lT HL_28 hb33
          have RZ33_33 := zrq hz33
          clear hb33 hz33 hg33 hW33 HL_28 Ngp_28 RZ28_28 HF_28
          simp only [oEF10, Act.put, zA, zB, zC]
          refine callW (i := 9) (oi := oEF9) rfl (by kernel_rfl) (by rfl) (exec_callL 25 [.tmp 11, .tmp 13] #[23, 23] rfl [vN y, vN y] rfl (CG25 _)) ((C1.out W33).mono ?_)
          rintro e34 W34 ⟨rfl, hb34⟩
          refine ⟨_, rfl, fun _ => hb34.mono HL_33.out, ?_⟩
          have Ngp_34 := hKq Ngp_33 hb34
          have RZ28_34 := hKq RZ28_33 hb34
          have RZ33_34 := hKq RZ33_33 hb34
          have HF_34 := fTq HF_33 hb34
          have HL_34 := lT HL_33 hb34
          clear hb34 HL_33 Ngp_33 RZ28_33 RZ33_33 HF_33
          simp only [oEF9, Act.put, zA, zB, zC]
          refine storeW_F (i := 12) (oi := oEF12) rfl (by kernel_rfl) (by rfl) (.tmp 3) (.tmp 9) rfl (g33) 0 0 rfl [0] xx rfl rfl RZ33_34.out (show 0 < 1 by omega) rfl ?_
          intro W35 hr35 hg35 hz35
          simp only [oEF12, Act.put, zA, zB, zC]
          have Ngp_35 := hGq Ngp_34 hg35 HX33_1
          have RZ28_35 := hGq RZ28_34 hg35 HX33_2
          have RZ33_35 : Hid (RAt W35 g33 [xx]) := Lib.hid hr35
          have HF_35 := fBq HF_34 hg35 HG33 HLO8
          have HL_35 := lG HL_34 hg35
          clear hr35 hg35 hz35 HL_34 Ngp_34 RZ28_34 RZ33_34 HF_34
          refine storeW_F (i := 13) (oi := oEF13) rfl (by kernel_rfl) (by rfl) (.tmp 4) (.tmp 14) rfl (g28) 0 0 rfl [0] yy rfl rfl RZ28_35.out (show 0 < 1 by omega) rfl ?_
          intro W36 hr36 hg36 hz36
          simp only [oEF13, Act.put, zA, zB, zC]
          have Ngp_36 := hGq Ngp_35 hg36 HX28_0
          have RZ28_36 : Hid (RAt W36 g28 [yy]) := Lib.hid hr36
          have RZ33_36 := hGq RZ33_35 hg36 HX33_2
          have HF_36 := fBq HF_35 hg36 HG28 HLO8
          have HL_36 := lG HL_35 hg36
          clear hr36 hg36 hz36 HL_35 Ngp_35 RZ28_35 RZ33_35 HF_35
          refine doneW (by kernel_rfl) ⟨rfl, ?_⟩ _
          exact ⟨g33, g28, Ngp_36.out, RZ33_36.out, RZ28_36.out, HG33.out, HG28.out, (by have := HX33_2.out; omega), HF_36.out, rfl⟩
    · refine wpOp_value (i := 10) (oi := oEF10) rfl (by rfl) (exec_alloc 23 rfl (.agg (zbs 32)) zero23 D8) ⟨fun _ => (below_alloc D8 _).mono HL_8.out, ?_⟩
      obtain ⟨W37, hW37, hb37, hz37⟩ := alloc_zero D8
      rw [← hW37]
      obtain ⟨g37, hg37⟩ : ∃ g, g = D8.heap.size := ⟨_, rfl⟩
      rw [← hg37] at hz37 ⊢
      have HG37 := gE hg37 HL_8
      have HX37_0 := nXq Ngp_8 hg37
      have Ngp_37 := hKq Ngp_8 hb37
      have HF_37 := fTq HF_8 hb37
      have HL_37 := lT HL_8 hb37
      have RZ37_37 := zrq hz37
      clear hb37 hz37 hg37 hW37 HL_8 Ngp_8 HF_8
      simp only [oEF10, Act.put, zA, zB, zC]
      refine eachW [4, 11] (by kernel_rfl) (by simp) ?_
      intro k hk
      simp only [zM, zN, or_false] at hk
      rcases hk with rfl | rfl
      · refine wpOp_call (i := 4) (oi := oEF8) rfl (by rfl) (exec_callL 25 [.tmp 6, .tmp 8] #[23, 23] rfl [vN x, vN x] rfl (CG25 _)) ((C0.out W37).mono ?_)
        rintro e38 W38 ⟨rfl, hb38⟩
        refine ⟨_, rfl, fun _ => hb38.mono HL_37.out, ?_⟩
        have Ngp_38 := hKq Ngp_37 hb38
        have RZ37_38 := hKq RZ37_37 hb38
        have HF_38 := fTq HF_37 hb38
        have HL_38 := lT HL_37 hb38
        clear hb38 HL_37 Ngp_37 RZ37_37 HF_37
        simp only [oEF8, Act.put, zA, zB, zC]
        refine eachW [9, 11] (by kernel_rfl) (by simp) ?_
        intro k hk
        simp only [zM, zN, or_false] at hk
        rcases hk with rfl | rfl
        · refine wpOp_call (i := 9) (oi := oEF9) rfl (by rfl) (exec_callL 25 [.tmp 11, .tmp 13] #[23, 23] rfl [vN y, vN y] rfl (CG25 _)) ((C1.out W38).mono ?_)
          rintro e39 W39 ⟨rfl, hb39⟩
          refine ⟨_, rfl, fun _ => hb39.mono HL_38.out, ?_⟩
          have Ngp_39 := hKq Ngp_38 hb39
          have RZ37_39 := hKq RZ37_38 hb39
          have HF_39 := fTq HF_38 hb39
          have HL_39 := lT HL_38 hb39
          clear hb39 HL_38 Ngp_38 RZ37_38 HF_38
          simp only [oEF9, Act.put, zA, zB, zC]
          refine opW _ _ (i := 11) (oi := oEF11) rfl (by kernel_rfl) (by rfl) (exec_alloc 23 rfl (.agg (zbs 32)) zero23 W39) (fun _ => (below_alloc W39 _).mono HL_39.out) ?_
          obtain ⟨W40, hW40, hb40, hz40⟩ := alloc_zero W39
          rw [← hW40]
          obtain ⟨g40, hg40⟩ : ∃ g, g = W39.heap.size := ⟨_, rfl⟩
          rw [← hg40] at hz40 ⊢
          have HG40 := gE hg40 HL_39
          have HX40_1 := nXq Ngp_39 hg40
          have HX40_2 := nXq RZ37_39 hg40
          have Ngp_40 := hKq Ngp_39 hb40
          have RZ37_40 := hKq RZ37_39 hb40
          have HF_40 := fTq HF_39 hb40
          have HL_40 := lT HL_39 hb40
          have RZ40_40 := zrq hz40
          clear hb40 hz40 hg40 hW40 HL_39 Ngp_39 RZ37_39 HF_39
          simp only [oEF11, Act.put, zA, zB, zC]
          refine storeW_F (i := 12) (oi := oEF12) rfl (by kernel_rfl) (by rfl) (.tmp 3) (.tmp 9) rfl (g37) 0 0 rfl [0] xx rfl rfl RZ37_40.out (show 0 < 1 by omega) rfl ?_
          intro W41 hr41 hg41 hz41
          simp only [oEF12, Act.put, zA, zB, zC]
          have Ngp_41 := hGq Ngp_40 hg41 HX37_0
          have RZ37_41 : Hid (RAt W41 g37 [xx]) := Lib.hid hr41
          have RZ40_41 := hGq RZ40_40 hg41 HX40_2
          have HF_41 := fBq HF_40 hg41 HG37 HLO8
          have HL_41 := lG HL_40 hg41
          clear hr41 hg41 hz41 HL_40 Ngp_40 RZ37_40 RZ40_40 HF_40
          refine storeW_F (i := 13) (oi := oEF13) rfl (by kernel_rfl) (by rfl) (.tmp 4) (.tmp 14) rfl (g40) 0 0 rfl [0] yy rfl rfl RZ40_41.out (show 0 < 1 by omega) rfl ?_
          intro W42 hr42 hg42 hz42
          simp only [oEF13, Act.put, zA, zB, zC]
          have Ngp_42 := hGq Ngp_41 hg42 HX40_1
          have RZ37_42 := hGq RZ37_41 hg42 HX40_2
          have RZ40_42 : Hid (RAt W42 g40 [yy]) := Lib.hid hr42
          have HF_42 := fBq HF_41 hg42 HG40 HLO8
          have HL_42 := lG HL_41 hg42
          clear hr42 hg42 hz42 HL_41 Ngp_41 RZ37_41 RZ40_41 HF_41
          refine doneW (by kernel_rfl) ⟨rfl, ?_⟩ _
          exact ⟨g37, g40, Ngp_42.out, RZ37_42.out, RZ40_42.out, HG37.out, HG40.out, (by have := HX40_2.out; omega), HF_42.out, rfl⟩
        · refine wpOp_value (i := 11) (oi := oEF11) rfl (by rfl) (exec_alloc 23 rfl (.agg (zbs 32)) zero23 W38) ⟨fun _ => (below_alloc W38 _).mono HL_38.out, ?_⟩
          obtain ⟨W43, hW43, hb43, hz43⟩ := alloc_zero W38
          rw [← hW43]
          obtain ⟨g43, hg43⟩ : ∃ g, g = W38.heap.size := ⟨_, rfl⟩
          rw [← hg43] at hz43 ⊢
          have HG43 := gE hg43 HL_38
          have HX43_1 := nXq Ngp_38 hg43
          have HX43_2 := nXq RZ37_38 hg43
          have Ngp_43 := hKq Ngp_38 hb43
          have RZ37_43 := hKq RZ37_38 hb43
          have HF_43 := fTq HF_38 hb43
          have HL_43 := lT HL_38 hb43
          have RZ43_43 := zrq hz43
          clear hb43 hz43 hg43 hW43 HL_38 Ngp_38 RZ37_38 HF_38
          simp only [oEF11, Act.put, zA, zB, zC]
          refine callW (i := 9) (oi := oEF9) rfl (by kernel_rfl) (by rfl) (exec_callL 25 [.tmp 11, .tmp 13] #[23, 23] rfl [vN y, vN y] rfl (CG25 _)) ((C1.out W43).mono ?_)
          rintro e44 W44 ⟨rfl, hb44⟩
          refine ⟨_, rfl, fun _ => hb44.mono HL_43.out, ?_⟩
          have Ngp_44 := hKq Ngp_43 hb44
          have RZ37_44 := hKq RZ37_43 hb44
          have RZ43_44 := hKq RZ43_43 hb44
          have HF_44 := fTq HF_43 hb44
          have HL_44 := lT HL_43 hb44
          clear hb44 HL_43 Ngp_43 RZ37_43 RZ43_43 HF_43
          simp only [oEF9, Act.put, zA, zB, zC]
          refine storeW_F (i := 12) (oi := oEF12) rfl (by kernel_rfl) (by rfl) (.tmp 3) (.tmp 9) rfl (g37) 0 0 rfl [0] xx rfl rfl RZ37_44.out (show 0 < 1 by omega) rfl ?_
          intro W45 hr45 hg45 hz45
          simp only [oEF12, Act.put, zA, zB, zC]
          have Ngp_45 := hGq Ngp_44 hg45 HX37_0
          have RZ37_45 : Hid (RAt W45 g37 [xx]) := Lib.hid hr45
          have RZ43_45 := hGq RZ43_44 hg45 HX43_2
          have HF_45 := fBq HF_44 hg45 HG37 HLO8
          have HL_45 := lG HL_44 hg45
          clear hr45 hg45 hz45 HL_44 Ngp_44 RZ37_44 RZ43_44 HF_44
          refine storeW_F (i := 13) (oi := oEF13) rfl (by kernel_rfl) (by rfl) (.tmp 4) (.tmp 14) rfl (g43) 0 0 rfl [0] yy rfl rfl RZ43_45.out (show 0 < 1 by omega) rfl ?_
          intro W46 hr46 hg46 hz46
          simp only [oEF13, Act.put, zA, zB, zC]
          have Ngp_46 := hGq Ngp_45 hg46 HX43_1
          have RZ37_46 := hGq RZ37_45 hg46 HX43_2
          have RZ43_46 : Hid (RAt W46 g43 [yy]) := Lib.hid hr46
          have HF_46 := fBq HF_45 hg46 HG43 HLO8
          have HL_46 := lG HL_45 hg46
          clear hr46 hg46 hz46 HL_45 Ngp_45 RZ37_45 RZ43_45 HF_45
          refine doneW (by kernel_rfl) ⟨rfl, ?_⟩ _
          exact ⟨g37, g43, Ngp_46.out, RZ37_46.out, RZ43_46.out, HG37.out, HG43.out, (by have := HX43_2.out; omega), HF_46.out, rfl⟩
      · refine wpOp_value (i := 11) (oi := oEF11) rfl (by rfl) (exec_alloc 23 rfl (.agg (zbs 32)) zero23 W37) ⟨fun _ => (below_alloc W37 _).mono HL_37.out, ?_⟩
        obtain ⟨W47, hW47, hb47, hz47⟩ := alloc_zero W37
        rw [← hW47]
        obtain ⟨g47, hg47⟩ : ∃ g, g = W37.heap.size := ⟨_, rfl⟩
        rw [← hg47] at hz47 ⊢
        have HG47 := gE hg47 HL_37
        have HX47_1 := nXq Ngp_37 hg47
        have HX47_2 := nXq RZ37_37 hg47
        have Ngp_47 := hKq Ngp_37 hb47
        have RZ37_47 := hKq RZ37_37 hb47
        have HF_47 := fTq HF_37 hb47
        have HL_47 := lT HL_37 hb47
        have RZ47_47 := zrq hz47
        clear hb47 hz47 hg47 hW47 HL_37 Ngp_37 RZ37_37 HF_37
        simp only [oEF11, Act.put, zA, zB, zC]
        refine callW (i := 4) (oi := oEF8) rfl (by kernel_rfl) (by rfl) (exec_callL 25 [.tmp 6, .tmp 8] #[23, 23] rfl [vN x, vN x] rfl (CG25 _)) ((C0.out W47).mono ?_)
        rintro e48 W48 ⟨rfl, hb48⟩
        refine ⟨_, rfl, fun _ => hb48.mono HL_47.out, ?_⟩
        have Ngp_48 := hKq Ngp_47 hb48
        have RZ37_48 := hKq RZ37_47 hb48
        have RZ47_48 := hKq RZ47_47 hb48
        have HF_48 := fTq HF_47 hb48
        have HL_48 := lT HL_47 hb48
        clear hb48 HL_47 Ngp_47 RZ37_47 RZ47_47 HF_47
        simp only [oEF8, Act.put, zA, zB, zC]
        refine callW (i := 9) (oi := oEF9) rfl (by kernel_rfl) (by rfl) (exec_callL 25 [.tmp 11, .tmp 13] #[23, 23] rfl [vN y, vN y] rfl (CG25 _)) ((C1.out W48).mono ?_)
        rintro e49 W49 ⟨rfl, hb49⟩
        refine ⟨_, rfl, fun _ => hb49.mono HL_48.out, ?_⟩
        have Ngp_49 := hKq Ngp_48 hb49
        have RZ37_49 := hKq RZ37_48 hb49
        have RZ47_49 := hKq RZ47_48 hb49
        have HF_49 := fTq HF_48 hb49
        have HL_49 := lT HL_48 hb49
        clear hb49 HL_48 Ngp_48 RZ37_48 RZ47_48 HF_48
        simp only [oEF9, Act.put, zA, zB, zC]
        refine storeW_F (i := 12) (oi := oEF12) rfl (by kernel_rfl) (by rfl) (.tmp 3) (.tmp 9) rfl (g37) 0 0 rfl [0] xx rfl rfl RZ37_49.out (show 0 < 1 by omega) rfl ?_
        intro W50 hr50 hg50 hz50
        simp only [oEF12, Act.put, zA, zB, zC]
        have Ngp_50 := hGq Ngp_49 hg50 HX37_0
        have RZ37_50 : Hid (RAt W50 g37 [xx]) := Lib.hid hr50
        have RZ47_50 := hGq RZ47_49 hg50 HX47_2
        have HF_50 := fBq HF_49 hg50 HG37 HLO8
        have HL_50 := lG HL_49 hg50
        clear hr50 hg50 hz50 HL_49 Ngp_49 RZ37_49 RZ47_49 HF_49
        refine storeW_F (i := 13) (oi := oEF13) rfl (by kernel_rfl) (by rfl) (.tmp 4) (.tmp 14) rfl (g47) 0 0 rfl [0] yy rfl rfl RZ47_50.out (show 0 < 1 by omega) rfl ?_
        intro W51 hr51 hg51 hz51
        simp only [oEF13, Act.put, zA, zB, zC]
        have Ngp_51 := hGq Ngp_50 hg51 HX47_1
        have RZ37_51 := hGq RZ37_50 hg51 HX47_2
        have RZ47_51 : Hid (RAt W51 g47 [yy]) := Lib.hid hr51
        have HF_51 := fBq HF_50 hg51 HG47 HLO8
        have HL_51 := lG HL_50 hg51
        clear hr51 hg51 hz51 HL_50 Ngp_50 RZ37_50 RZ47_50 HF_50
        refine doneW (by kernel_rfl) ⟨rfl, ?_⟩ _
        exact ⟨g37, g47, Ngp_51.out, RZ37_51.out, RZ47_51.out, HG37.out, HG47.out, (by have := HX47_2.out; omega), HF_51.out, rfl⟩
    · refine wpOp_value (i := 11) (oi := oEF11) rfl (by rfl) (exec_alloc 23 rfl (.agg (zbs 32)) zero23 D8) ⟨fun _ => (below_alloc D8 _).mono HL_8.out, ?_⟩
      obtain ⟨W52, hW52, hb52, hz52⟩ := alloc_zero D8
      rw [← hW52]
      obtain ⟨g52, hg52⟩ : ∃ g, g = D8.heap.size := ⟨_, rfl⟩
      rw [← hg52] at hz52 ⊢
      have HG52 := gE hg52 HL_8
      have HX52_0 := nXq Ngp_8 hg52
      have Ngp_52 := hKq Ngp_8 hb52
      have HF_52 := fTq HF_8 hb52
      have HL_52 := lT HL_8 hb52
      have RZ52_52 := zrq hz52
      clear hb52 hz52 hg52 hW52 HL_8 Ngp_8 HF_8
      simp only [oEF11, Act.put, zA, zB, zC]
      refine eachW [4, 10] (by kernel_rfl) (by simp) ?_
      intro k hk
      simp only [zM, zN, or_false] at hk
      rcases hk with rfl | rfl
      · refine wpOp_call (i := 4) (oi := oEF8) rfl (by rfl) (exec_callL 25 [.tmp 6, .tmp 8] #[23, 23] rfl [vN x, vN x] rfl (CG25 _)) ((C0.out W52).mono ?_)
        rintro e53 W53 ⟨rfl, hb53⟩
        refine ⟨_, rfl, fun _ => hb53.mono HL_52.out, ?_⟩
        have Ngp_53 := hKq Ngp_52 hb53
        have RZ52_53 := hKq RZ52_52 hb53
        have HF_53 := fTq HF_52 hb53
        have HL_53 := lT HL_52 hb53
        clear hb53 HL_52 Ngp_52 RZ52_52 HF_52
        simp only [oEF8, Act.put, zA, zB, zC]
        refine eachW [9, 10] (by kernel_rfl) (by simp) ?_
        intro k hk
        simp only [zM, zN, or_false] at hk
        rcases hk with rfl | rfl
        · refine wpOp_call (i := 9) (oi := oEF9) rfl (by rfl) (exec_callL 25 [.tmp 11, .tmp 13] #[23, 23] rfl [vN y, vN y] rfl (CG25 _)) ((C1.out W53).mono ?_)
          rintro e54 W54 ⟨rfl, hb54⟩
          refine ⟨_, rfl, fun _ => hb54.mono HL_53.out, ?_⟩
          have Ngp_54 := hKq Ngp_53 hb54
          have RZ52_54 := hKq RZ52_53 hb54
          have HF_54 := fTq HF_53 hb54
          have HL_54 := lT HL_53 hb54
          clear hb54 HL_53 Ngp_53 RZ52_53 HF_53
          simp only [oEF9, Act.put, zA, zB, zC]
          refine opW _ _ (i := 10) (oi := oEF10) rfl (by kernel_rfl) (by rfl) (exec_alloc 23 rfl (.agg (zbs 32)) zero23 W54) (fun _ => (below_alloc W54 _).mono HL_54.out) ?_
          obtain ⟨W55, hW55, hb55, hz55⟩ := alloc_zero W54
          rw [← hW55]
          obtain ⟨g55, hg55⟩ : ∃ g, g = W54.heap.size := ⟨_, rfl⟩
          rw [← hg55] at hz55 ⊢
          have HG55 := gE hg55 HL_54
          have HX55_1 := nXq Ngp_54 hg55
          have HX55_2 := nXq RZ52_54 hg55
          have Ngp_55 := hKq Ngp_54 hb55
          have RZ52_55 := hKq RZ52_54 hb55
          have HF_55 := fTq HF_54 hb55
          have HL_55 := lT HL_54 hb55
          have RZ55_55 := zrq hz55
          clear hb55 hz55 hg55 hW55 HL_54 Ngp_54 RZ52_54 HF_54
          simp only [oEF10, Act.put, zA, zB, zC]
          refine storeW_F (i := 12) (oi := oEF12) rfl (by kernel_rfl) (by rfl) (.tmp 3) (.tmp 9) rfl (g55) 0 0 rfl [0] xx rfl rfl RZ55_55.out (show 0 < 1 by omega) rfl ?_
          intro W56 hr56 hg56 hz56
          simp only [oEF12, Act.put, zA, zB, zC]
          have Ngp_56 := hGq Ngp_55 hg56 HX55_1
          have RZ52_56 := hGq RZ52_55 hg56 HX55_2
          have RZ55_56 : Hid (RAt W56 g55 [xx]) := Lib.hid hr56
          have HF_56 := fBq HF_55 hg56 HG55 HLO8
          have HL_56 := lG HL_55 hg56
          clear hr56 hg56 hz56 HL_55 Ngp_55 RZ52_55 RZ55_55 HF_55
          refine storeW_F (i := 13) (oi := oEF13) rfl (by kernel_rfl) (by rfl) (.tmp 4) (.tmp 14) rfl (g52) 0 0 rfl [0] yy rfl rfl RZ52_56.out (show 0 < 1 by omega) rfl ?_
          intro W57 hr57 hg57 hz57
          simp only [oEF13, Act.put, zA, zB, zC]
          have Ngp_57 := hGq Ngp_56 hg57 HX52_0
          have RZ52_57 : Hid (RAt W57 g52 [yy]) := Lib.hid hr57
          have RZ55_57 := hGq RZ55_56 hg57 HX55_2
          have HF_57 := fBq HF_56 hg57 HG52 HLO8
          have HL_57 := lG HL_56 hg57
          clear hr57 hg57 hz57 HL_56 Ngp_56 RZ52_56 RZ55_56 HF_56
          refine doneW (by kernel_rfl) ⟨rfl, ?_⟩ _
          exact ⟨g55, g52, Ngp_57.out, RZ55_57.out, RZ52_57.out, HG55.out, HG52.out, (by have := HX55_2.out; omega), HF_57.out, rfl⟩
        · refine wpOp_value (i := 10) (oi := oEF10) rfl (by rfl) (exec_alloc 23 rfl (.agg (zbs 32)) zero23 W53) ⟨fun _ => (below_alloc W53 _).mono HL_53.out, ?_⟩
          obtain ⟨W58, hW58, hb58, hz58⟩ := alloc_zero W53
          rw [← hW58]
          obtain ⟨g58, hg58⟩ : ∃ g, g = W53.heap.size := ⟨_, rfl⟩
          rw [← hg58] at hz58 ⊢
          have HG58 := gE hg58 HL_53
          have HX58_1 := nXq Ngp_53 hg58
          have HX58_2 := nXq RZ52_53 hg58
          have Ngp_58 := hKq Ngp_53 hb58
          have RZ52_58 := hKq RZ52_53 hb58
          have HF_58 := fTq HF_53 hb58
          have HL_58 := lT HL_53 hb58
          have RZ58_58 := zrq hz58
          clear hb58 hz58 hg58 hW58 HL_53 Ngp_53 RZ52_53 HF_53
          simp only [oEF10, Act.put, zA, zB, zC]
          refine callW (i := 9) (oi := oEF9) rfl (by kernel_rfl) (by rfl) (exec_callL 25 [.tmp 11, .tmp 13] #[23, 23] rfl [vN y, vN y] rfl (CG25 _)) ((C1.out W58).mono ?_)
          rintro e59 W59 ⟨rfl, hb59⟩
          refine ⟨_, rfl, fun _ => hb59.mono HL_58.out, ?_⟩
          have Ngp_59 := hKq Ngp_58 hb59
          have RZ52_59 := hKq RZ52_58 hb59
          have RZ58_59 := hKq RZ58_58 hb59
          have HF_59 := fTq HF_58 hb59
          have HL_59 := lT HL_58 hb59
          clear hb59 HL_58 Ngp_58 RZ52_58 RZ58_58 HF_58
          simp only [oEF9, Act.put, zA, zB, zC]
          refine storeW_F (i := 12) (oi := oEF12) rfl (by kernel_rfl) (by rfl) (.tmp 3) (.tmp 9) rfl (g58) 0 0 rfl [0] xx rfl rfl RZ58_59.out (show 0 < 1 by omega) rfl ?_
          intro W60 hr60 hg60 hz60
          simp only [oEF12, Act.put, zA, zB, zC]
          have Ngp_60 := hGq Ngp_59 hg60 HX58_1
          have RZ52_60 := hGq RZ52_59 hg60 HX58_2
          have RZ58_60 : Hid (RAt W60 g58 [xx]) := Lib.hid hr60
          have HF_60 := fBq HF_59 hg60 HG58 HLO8
          have HL_60 := lG HL_59 hg60
          clear hr60 hg60 hz60 HL_59 Ngp_59 RZ52_59 RZ58_59 HF_59
          refine storeW_F (i := 13) (oi := oEF13) rfl (by kernel_rfl) (by rfl) (.tmp 4) (.tmp 14) rfl (g52) 0 0 rfl [0] yy rfl rfl RZ52_60.out (show 0 < 1 by omega) rfl ?_
          intro W61 hr61 hg61 hz61
          simp only [oEF13, Act.put, zA, zB, zC]
          have Ngp_61 := hGq Ngp_60 hg61 HX52_0
          have RZ52_61 : Hid (RAt W61 g52 [yy]) := Lib.hid hr61
          have RZ58_61 := hGq RZ58_60 hg61 HX58_2
          have HF_61 := fBq HF_60 hg61 HG52 HLO8
          have HL_61 := lG HL_60 hg61
          clear hr61 hg61 hz61 HL_60 Ngp_60 RZ52_60 RZ58_60 HF_60
          refine doneW (by kernel_rfl) ⟨rfl, ?_⟩ _
          exact ⟨g58, g52, Ngp_61.out, RZ58_61.out, RZ52_61.out, HG58.out, HG52.out, (by have := HX58_2.out; omega), HF_61.out, rfl⟩
      · refine wpOp_value (i := 10) (oi := oEF10) rfl (by rfl) (exec_alloc 23 rfl (.agg (zbs 32)) zero23 W52) ⟨fun _ => (below_alloc W52 _).mono HL_52.out, ?_⟩
        obtain ⟨W62, hW62, hb62, hz62⟩ := alloc_zero W52
        rw [← hW62]
        obtain ⟨g62, hg62⟩ : ∃ g, g = W52.heap.size := ⟨_, rfl⟩
        rw [← hg62] at hz62 ⊢
        have HG62 := gE hg62 HL_52
        have HX62_1 := nXq Ngp_52 hg62
        have HX62_2 := nXq RZ52_52 hg62
        have Ngp_62 := hKq Ngp_52 hb62
        have RZ52_62 := hKq RZ52_52 hb62
        have HF_62 := fTq HF_52 hb62
        have HL_62 := lT HL_52 hb62
        have RZ62_62 := zrq hz62
        clear hb62 hz62 hg62 hW62 HL_52 Ngp_52 RZ52_52 HF_52
        simp only [oEF10, Act.put, zA, zB, zC]
        refine callW (i := 4) (oi := oEF8) rfl (by kernel_rfl) (by rfl) (exec_callL 25 [.tmp 6, .tmp 8] #[23, 23] rfl [vN x, vN x] rfl (CG25 _)) ((C0.out W62).mono ?_)
        rintro e63 W63 ⟨rfl, hb63⟩
        refine ⟨_, rfl, fun _ => hb63.mono HL_62.out, ?_⟩
        have Ngp_63 := hKq Ngp_62 hb63
        have RZ52_63 := hKq RZ52_62 hb63
        have RZ62_63 := hKq RZ62_62 hb63
        have HF_63 := fTq HF_62 hb63
        have HL_63 := lT HL_62 hb63
        clear hb63 HL_62 Ngp_62 RZ52_62 RZ62_62 HF_62
        simp only [oEF8, Act.put, zA, zB, zC]
        refine callW (i := 9) (oi := oEF9) rfl (by kernel_rfl) (by rfl) (exec_callL 25 [.tmp 11, .tmp 13] #[23, 23] rfl [vN y, vN y] rfl (CG25 _)) ((C1.out W63).mono ?_)
        rintro e64 W64 ⟨rfl, hb64⟩
        refine ⟨_, rfl, fun _ => hb64.mono HL_63.out, ?_⟩
        have Ngp_64 := hKq Ngp_63 hb64
        have RZ52_64 := hKq RZ52_63 hb64
        have RZ62_64 := hKq RZ62_63 hb64
        have HF_64 := fTq HF_63 hb64
        have HL_64 := lT HL_63 hb64
        clear hb64 HL_63 Ngp_63 RZ52_63 RZ62_63 HF_63
        simp only [oEF9, Act.put, zA, zB, zC]
        refine storeW_F (i := 12) (oi := oEF12) rfl (by kernel_rfl) (by rfl) (.tmp 3) (.tmp 9) rfl (g62) 0 0 rfl [0] xx rfl rfl RZ62_64.out (show 0 < 1 by omega) rfl ?_
        intro W65 hr65 hg65 hz65
        simp only [oEF12, Act.put, zA, zB, zC]
        have Ngp_65 := hGq Ngp_64 hg65 HX62_1
        have RZ52_65 := hGq RZ52_64 hg65 HX62_2
        have RZ62_65 : Hid (RAt W65 g62 [xx]) := Lib.hid hr65
        have HF_65 := fBq HF_64 hg65 HG62 HLO8
        have HL_65 := lG HL_64 hg65
        clear hr65 hg65 hz65 HL_64 Ngp_64 RZ52_64 RZ62_64 HF_64
        refine storeW_F (i := 13) (oi := oEF13) rfl (by kernel_rfl) (by rfl) (.tmp 4) (.tmp 14) rfl (g52) 0 0 rfl [0] yy rfl rfl RZ52_65.out (show 0 < 1 by omega) rfl ?_
        intro W66 hr66 hg66 hz66
        simp only [oEF13, Act.put, zA, zB, zC]
        have Ngp_66 := hGq Ngp_65 hg66 HX52_0
        have RZ52_66 : Hid (RAt W66 g52 [yy]) := Lib.hid hr66
        have RZ62_66 := hGq RZ62_65 hg66 HX62_2
        have HF_66 := fBq HF_65 hg66 HG52 HLO8
        have HL_66 := lG HL_65 hg66
        clear hr66 hg66 hz66 HL_65 Ngp_65 RZ52_65 RZ62_65 HF_65
        refine doneW (by kernel_rfl) ⟨rfl, ?_⟩ _
        exact ⟨g62, g52, Ngp_66.out, RZ62_66.out, RZ52_66.out, HG62.out, HG52.out, (by have := HX62_2.out; omega), HF_66.out, rfl⟩
  rintro a' v67 ⟨a8_0, a8_1, h0, h1, h2, k0, k1, q0, hF, rfl⟩
  have Ngp_67 := Lib.hid h0
  have Na8_0_67 := Lib.hid h1
  have Na8_1_67 := Lib.hid h2
  have HNE67_0 : Hid (w.heap.size ≠ a8_0) := Lib.hid (by have := HLT8_0.out; omega)
  have HGE67_0 : Hid (w.heap.size ≤ a8_0) := Lib.hid (by have := HLO8.out; omega)
  have HNE67_1 : Hid (w.heap.size ≠ a8_1) := Lib.hid (by have := HLT8_0.out; omega)
  have HGE67_1 : Hid (w.heap.size ≤ a8_1) := Lib.hid (by have := HLO8.out; omega)
  have HNE67_2 := Lib.hid q0
  have HF_67 := Lib.hid hF
  clear h0 h1 h2 k0 k1 q0 hF HLT8_0 HLO8 Ngp_7 HF_7
  go_wp2_with fail
  have HLT68_0 := lR Ngp_67
  have HLT68_1 := lR Na8_0_67
  have HLT68_2 := lR Na8_1_67
  have HLO68 : Hid (w.heap.size ≤ v67.heap.size) := Lib.hid HF_67.out.size
  refine region_split (fun a' W => RAt W w.heap.size [x, y] ∧ RAt W a8_0 [xx] ∧ RAt W a8_1 [yy] ∧ Below w.heap.size w W ∧ a' = ⟨#[vR [x, y], .pointer (some ⟨w.heap.size, 0, none⟩), .bool b, .pointer (some ⟨a8_0, 0, none⟩), .pointer (some ⟨a8_1, 0, none⟩), .pointer (some ⟨w.heap.size, 0, none⟩), vN x, .pointer (some ⟨w.heap.size, 0, none⟩), vN x, vN xx, .pointer (some ⟨w.heap.size, 32, none⟩), vN y, .pointer (some ⟨w.heap.size, 32, none⟩), vN y, vN yy, vN yy, vN xx, vN l, vN 1, vN dd, vN xx, vN yy, vN m, vN dm, vN r, .bool b], []⟩) ?_ ?_
  · refine startW (fun j => false) (v67.heap.size) (by kernel_rfl) ?_
    obtain ⟨D68, hD68⟩ : ∃ D, D = v67.drew := ⟨_, rfl⟩
    rw [← hD68]
    have HL_68 := dLq hD68
    have Ngp_68 := dRq hD68 Ngp_67
    have Na8_0_68 := dRq hD68 Na8_0_67
    have Na8_1_68 := dRq hD68 Na8_1_67
    have HF_68 : Hid (Below w.heap.size w D68) := Lib.hid (by rw [hD68]; exact below_drewN' HF_67.out 1)
    clear hD68 Ngp_67 Na8_0_67 Na8_1_67 HF_67
    refine takeT (i := 0) (oi := oEF14) (vN yy) rfl (by kernel_rfl) (by kernel_rfl) (by kernel_rfl) (by kernel_rfl) (by kernel_rfl) (fun _ _ _ h => nomatch h.1) (by rfl) (fun w' hk => exec_loadF (.tmp 4) rfl (a8_1) 0 0 rfl [yy] yy rfl (Na8_1_68.out.below hk HLT68_2.out) rfl) ?_
    simp only [oEF14, Act.put, zA, zB, zC]
    refine takeT (i := 1) (oi := oEF15) (vN xx) rfl (by kernel_rfl) (by kernel_rfl) (by kernel_rfl) (by kernel_rfl) (by kernel_rfl) (fun _ _ _ h => nomatch h.1) (by rfl) (fun w' hk => exec_loadF (.tmp 3) rfl (a8_0) 0 0 rfl [xx] xx rfl (Na8_0_68.out.below hk HLT68_1.out) rfl) ?_
    simp only [oEF15, Act.put, zA, zB, zC]
    refine takeT (i := 5) (oi := oEF16) (vN xx) rfl (by kernel_rfl) (by kernel_rfl) (by kernel_rfl) (by kernel_rfl) (by kernel_rfl) (fun _ _ _ h => nomatch h.1) (by rfl) (fun w' hk => exec_loadF (.tmp 3) rfl (a8_0) 0 0 rfl [xx] xx rfl (Na8_0_68.out.below hk HLT68_1.out) rfl) ?_
    simp only [oEF16, Act.put, zA, zB, zC]
    refine takeT (i := 6) (oi := oEF17) (vN yy) rfl (by kernel_rfl) (by kernel_rfl) (by kernel_rfl) (by kernel_rfl) (by kernel_rfl) (fun _ _ _ h => nomatch h.1) (by rfl) (fun w' hk => exec_loadF (.tmp 4) rfl (a8_1) 0 0 rfl [yy] yy rfl (Na8_1_68.out.below hk HLT68_2.out) rfl) ?_
    simp only [oEF17, Act.put, zA, zB, zC]
    refine callW (i := 2) (oi := oEF18) rfl (by kernel_rfl) (by rfl) (exec_callL 21 [.tmp 15, .tmp 16] #[23, 23] rfl [vN yy, vN xx] rfl (CG21 _)) ((C2.out D68).mono ?_)
    rintro e69 W69 ⟨rfl, hb69⟩
    refine ⟨_, rfl, fun _ => hb69.mono HL_68.out, ?_⟩
    have Ngp_69 := hKq Ngp_68 hb69
    have Na8_0_69 := hKq Na8_0_68 hb69
    have Na8_1_69 := hKq Na8_1_68 hb69
    have HF_69 := fTq HF_68 hb69
    have HL_69 := lT HL_68 hb69
    clear hb69 HL_68 Ngp_68 Na8_0_68 Na8_1_68 HF_68
    simp only [oEF18, Act.put, zA, zB, zC]
    refine callW (i := 3) (oi := oEF19) rfl (by kernel_rfl) (by rfl) (exec_callL 17 [.const (.int .u64 1)] #[24] rfl [.int .u64 1] rfl (CG17 _)) ((C3.out W69).mono ?_)
    rintro e70 W70 ⟨rfl, hb70⟩
    refine ⟨_, rfl, fun _ => hb70.mono HL_69.out, ?_⟩
    have Ngp_70 := hKq Ngp_69 hb70
    have Na8_0_70 := hKq Na8_0_69 hb70
    have Na8_1_70 := hKq Na8_1_69 hb70
    have HF_70 := fTq HF_69 hb70
    have HL_70 := lT HL_69 hb70
    clear hb70 HL_69 Ngp_69 Na8_0_69 Na8_1_69 HF_69
    simp only [oEF19, Act.put, zA, zB, zC]
    refine callW (i := 4) (oi := oEF20) rfl (by kernel_rfl) (by rfl) (exec_callL 45 [] #[] rfl [] rfl (CG45 _)) ((C4.out W70).mono ?_)
    rintro e71 W71 ⟨rfl, hb71⟩
    refine ⟨_, rfl, fun _ => hb71.mono HL_70.out, ?_⟩
    have Ngp_71 := hKq Ngp_70 hb71
    have Na8_0_71 := hKq Na8_0_70 hb71
    have Na8_1_71 := hKq Na8_1_70 hb71
    have HF_71 := fTq HF_70 hb71
    have HL_71 := lT HL_70 hb71
    clear hb71 HL_70 Ngp_70 Na8_0_70 Na8_1_70 HF_70
    simp only [oEF20, Act.put, zA, zB, zC]
    refine callW (i := 7) (oi := oEF21) rfl (by kernel_rfl) (by rfl) (exec_callL 25 [.tmp 20, .tmp 21] #[23, 23] rfl [vN xx, vN yy] rfl (CG25 _)) ((C5.out W71).mono ?_)
    rintro e72 W72 ⟨rfl, hb72⟩
    refine ⟨_, rfl, fun _ => hb72.mono HL_71.out, ?_⟩
    have Ngp_72 := hKq Ngp_71 hb72
    have Na8_0_72 := hKq Na8_0_71 hb72
    have Na8_1_72 := hKq Na8_1_71 hb72
    have HF_72 := fTq HF_71 hb72
    have HL_72 := lT HL_71 hb72
    clear hb72 HL_71 Ngp_71 Na8_0_71 Na8_1_71 HF_71
    simp only [oEF21, Act.put, zA, zB, zC]
    refine callW (i := 8) (oi := oEF22) rfl (by kernel_rfl) (by rfl) (exec_callL 25 [.tmp 19, .tmp 22] #[23, 23] rfl [vN dd, vN m] rfl (CG25 _)) ((C6.out W72).mono ?_)
    rintro e73 W73 ⟨rfl, hb73⟩
    refine ⟨_, rfl, fun _ => hb73.mono HL_72.out, ?_⟩
    have Ngp_73 := hKq Ngp_72 hb73
    have Na8_0_73 := hKq Na8_0_72 hb73
    have Na8_1_73 := hKq Na8_1_72 hb73
    have HF_73 := fTq HF_72 hb73
    have HL_73 := lT HL_72 hb73
    clear hb73 HL_72 Ngp_72 Na8_0_72 Na8_1_72 HF_72
    simp only [oEF22, Act.put, zA, zB, zC]
    refine callW (i := 9) (oi := oEF23) rfl (by kernel_rfl) (by rfl) (exec_callL 19 [.tmp 18, .tmp 23] #[23, 23] rfl [vN 1, vN dm] rfl (CG19 _)) ((C7.out W73).mono ?_)
    rintro e74 W74 ⟨rfl, hb74⟩
    refine ⟨_, rfl, fun _ => hb74.mono HL_73.out, ?_⟩
    have Ngp_74 := hKq Ngp_73 hb74
    have Na8_0_74 := hKq Na8_0_73 hb74
    have Na8_1_74 := hKq Na8_1_73 hb74
    have HF_74 := fTq HF_73 hb74
    have HL_74 := lT HL_73 hb74
    clear hb74 HL_73 Ngp_73 Na8_0_73 Na8_1_73 HF_73
    simp only [oEF23, Act.put, zA, zB, zC]
    refine tA (i := 10) (oi := oEF24) ?_
    refine ⟨.bool b, fun w' => exec_eq23 (.tmp 17) (.tmp 24) rfl rfl rfl (HE.out w'), ?_⟩
    simp only [oEF24, Act.put, zA, zB, zC]
    refine tA (i := 11) (oi := oEF25) ?_
    refine ⟨.bool b, fun w' => exec_moveA (.tmp 25) rfl _ rfl, ?_⟩
    simp only [oEF25, Act.put, zA, zB, zC]
    refine doneW (by kernel_rfl) ⟨rfl, ?_⟩ _
    exact ⟨Ngp_74.out, Na8_0_74.out, Na8_1_74.out, HF_74.out, rfl⟩
  rintro a' v75 ⟨h0, h1, h2, hF, rfl⟩
  have Ngp_75 := Lib.hid h0
  have Na8_0_75 := Lib.hid h1
  have Na8_1_75 := Lib.hid h2
  have HF_75 := Lib.hid hF
  clear h0 h1 h2 hF HLT68_0 HLT68_1 HLT68_2 HLO68 Ngp_67 Na8_0_67 Na8_1_67 HF_67
  go_wp2
  go_ret
  exact ⟨rfl, HF_75.out⟩
end Go.Proofs.Ytgdimnbdnepbgaa
/- The curve: Check, Add, Neg. No statement is proved here. -/
namespace Go.Proofs.Ytgdimnbdnepbgaa
open Go.RowKit
set_option linter.unusedVariables false
set_option maxRecDepth 40000
set_option linter.unusedSimpArgs false
def oEG0 : Oper := { dst := some 7, op := Op.fieldAddr 35 (Operand.tmp 1) 0, type := 0, pos := "curve.go:68", after := #[], guard := none }
def oEG1 : Oper := { dst := some 8, op := Op.load 23 (Operand.tmp 7), type := 23, pos := "curve.go:68", after := #[{ on := 0, ground := Ground.data }], guard := none }
def oEG2 : Oper := { dst := some 10, op := Op.fieldAddr 35 (Operand.tmp 1) 1, type := 0, pos := "curve.go:68", after := #[], guard := none }
def oEG3 : Oper := { dst := some 11, op := Op.load 23 (Operand.tmp 10), type := 23, pos := "curve.go:68", after := #[{ on := 3, ground := Ground.data }], guard := none }
def oEG4 : Oper := { dst := some 9, op := Op.call { callee := Callee.value (Operand.func 23), args := #[Operand.tmp 8], argTypes := #[23] }, type := 23, pos := "curve.go:68", after := #[{ on := 1, ground := Ground.data }], guard := none }
def oEG5 : Oper := { dst := some 12, op := Op.build 35 #[(0, Operand.tmp 9), (1, Operand.tmp 11)], type := 35, pos := "curve.go:68", after := #[{ on := 2, ground := Ground.data }, { on := 4, ground := Ground.data }], guard := none }
def oEG6 : Oper := { dst := none, op := Op.store 35 (Operand.tmp 2) (Operand.tmp 12), type := 0, pos := "curve.go:68", after := #[{ on := 5, ground := Ground.data }, { on := 2, ground := Ground.chain }, { on := 0, ground := Ground.phase }, { on := 1, ground := Ground.phase }, { on := 2, ground := Ground.phase }, { on := 3, ground := Ground.phase }, { on := 4, ground := Ground.phase }, { on := 5, ground := Ground.phase }], guard := none }

set_option maxHeartbeats 4000000 in
theorem Check_core (x y : Nat) (cx cy oc : Bool) (rr : Int) (w : World) (HR : Hid ((if cx && (cy && oc) then (0 : Int) else 2) = rr))
    (H1 : Hid (∀ w, Calls Try.prog 15 #[vN x] w (Gives (.bool cx) w))) (H2 : Hid (∀ w, Calls Try.prog 15 #[vN y] w (Gives (.bool cy) w))) (H3 : Hid (∀ w, Calls Try.prog 79 #[vR [x, y]] w (Gives (.bool oc) w))) :
    Calls Try.prog 40 #[vR [x, y]] w (Gives (.int .i64 rr) w) := by
  have HF_0 : Hid (Below w.heap.size w w) := Lib.hid (Below.refl _ _)
  go_enter Try.func40, Try.ntmps40
  go_wp2_with (first | ((with_reducible show wpList _ _ _ (⟨some 1, .box 35 (.tmp 0), _, _, _, _⟩ :: _) _ _); go_must (refine wpList_box_row rfl 35 (.tmp 0) rfl (bcs (encs [x, y])).toArray rfl ?_; intro u1 ha1 hza1 hga1; have Ngp_1 : Hid (RAt u1 w.heap.size [x, y]) := Lib.hid (⟨_, ha1⟩); have HF_1 : Hid (Below w.heap.size w u1) := Lib.hid (HF_0.out.grown hga1 HF_0.out.size (by simp)); have HGE1 : Hid (w.heap.size ≤ w.heap.size) := Lib.hid HF_0.out.size; clear ha1 hza1 hga1 HF_0)) | ((with_reducible show wpList _ _ _ (⟨_, .load 23 (.tmp 3), _, _, _, _⟩ :: _) _ _); go_must (refine wpList_exec rfl (vN x) (exec_loadF (.tmp 3) rfl (w.heap.size) 0 0 rfl [x, y] x rfl Ngp_1.out rfl) ?_)) | fail)
  refine (H1.out _).mono ?_
  rintro e2 x2 ⟨rfl, hb2⟩
  have Ngp_2 := hKq Ngp_1 hb2
  have HF_2 := fTq HF_1 hb2
  clear hb2 Ngp_1 HF_1
  cases cx
  · go_wp2_with fail
    go_ret
    obtain rfl : (2 : Int) = rr := HR.out
    exact ⟨rfl, HF_2.out⟩
  · go_wp2_with (first | ((with_reducible show wpList _ _ _ (⟨_, .load 23 (.tmp 8), _, _, _, _⟩ :: _) _ _); go_must (refine wpList_exec rfl (vN y) (exec_loadF (.tmp 8) rfl (w.heap.size) 1 32 rfl [x, y] y rfl Ngp_2.out rfl) ?_)) | fail)
    refine (H2.out _).mono ?_
    rintro e3 x3 ⟨rfl, hb3⟩
    have Ngp_3 := hKq Ngp_2 hb3
    have HF_3 := fTq HF_2 hb3
    clear hb3 Ngp_2 HF_2
    cases cy
    · go_wp2_with fail
      go_ret
      obtain rfl : (2 : Int) = rr := HR.out
      exact ⟨rfl, HF_3.out⟩
    · go_wp2_with (first | ((with_reducible show wpList _ _ _ (⟨_, .load 35 (.tmp 1), _, _, _, _⟩ :: _) _ _); go_must (refine wpList_exec rfl (vR [x, y]) (exec_loadP (.tmp 1) rfl (w.heap.size) x y rfl Ngp_3.out) ?_)) | fail)
      refine (H3.out _).mono ?_
      rintro e4 x4 ⟨rfl, hb4⟩
      have Ngp_4 := hKq Ngp_3 hb4
      have HF_4 := fTq HF_3 hb4
      clear hb4 Ngp_3 HF_3
      cases oc
      · go_wp2_with fail
        go_ret
        obtain rfl : (2 : Int) = rr := HR.out
        exact ⟨rfl, HF_4.out⟩
      · go_wp2_with fail
        go_ret
        obtain rfl : (0 : Int) = rr := HR.out
        exact ⟨rfl, HF_4.out⟩

set_option maxHeartbeats 4000000 in
theorem PAdd_core (x1 y1 x2 y2 t1 t2 X Y Z T PX PY : Nat) (w : World)
    (C1 : Hid (∀ w, Calls Try.prog 40 #[vR [x1, y1]] w (Gives (.int .i64 0) w))) (C2 : Hid (∀ w, Calls Try.prog 40 #[vR [x2, y2]] w (Gives (.int .i64 0) w)))
    (HR1 : Hid (∀ (w : World) (g g1 : Nat), RAt w g [0, 0, 0, 0] → RAt w g1 [x1, y1] → g ≠ g1 → Calls Try.prog 80 #[.pointer (some ⟨g, 0, none⟩), .pointer (some ⟨g1, 0, none⟩)] w (SetsR g [x1, y1, 1, t1] w)))
    (HR2 : Hid (∀ (w : World) (g g1 : Nat), RAt w g [0, 0, 0, 0] → RAt w g1 [x2, y2] → g ≠ g1 → Calls Try.prog 80 #[.pointer (some ⟨g, 0, none⟩), .pointer (some ⟨g1, 0, none⟩)] w (SetsR g [x2, y2, 1, t2] w)))
    (HA : Hid (∀ (w : World) (g g1 : Nat), RAt w g [x1, y1, 1, t1] → RAt w g1 [x2, y2, 1, t2] → Calls Try.prog 81 #[.pointer (some ⟨g, 0, none⟩), .pointer (some ⟨g, 0, none⟩), .pointer (some ⟨g1, 0, none⟩)] w (SetsR g [X, Y, Z, T] w)))
    (HP : Hid (∀ (w : World) (g : Nat), RAt w g [X, Y, Z, T] → Calls Try.prog 82 #[.pointer (some ⟨g, 0, none⟩)] w (Gives (vR [PX, PY]) w))) :
    Calls Try.prog 44 #[vR [x1, y1], vR [x2, y2]] w (Gives (vR [PX, PY]) w) := by
  have HF_0 : Hid (Below w.heap.size w w) := Lib.hid (Below.refl _ _)
  go_enter Try.func44, Try.ntmps44
  go_wp2_with (first | ((with_reducible show wpList _ _ _ (⟨some 2, .box 35 (.tmp 0), _, _, _, _⟩ :: _) _ _); go_must (refine wpList_box_row rfl 35 (.tmp 0) rfl (bcs (encs [x1, y1])).toArray rfl ?_; intro u5 ha5 hza5 hga5; have Ngp_5 : Hid (RAt u5 w.heap.size [x1, y1]) := Lib.hid (⟨_, ha5⟩); have HF_5 : Hid (Below w.heap.size w u5) := Lib.hid (HF_0.out.grown hga5 HF_0.out.size (by simp)); have HGE5 : Hid (w.heap.size ≤ w.heap.size) := Lib.hid HF_0.out.size; clear ha5 hza5 hga5 HF_0)) | ((with_reducible show wpList _ _ _ (⟨some 3, .box 35 (.tmp 1), _, _, _, _⟩ :: _) _ _); go_must (refine wpList_box_row rfl 35 (.tmp 1) rfl (bcs (encs [x2, y2])).toArray rfl ?_; intro u6 ha6 hza6 hga6; have Ngp_6 := Lib.hid (Ngp_5.out.grown hga6 (by simp)); have Ngq_6 : Hid (RAt u6 u5.heap.size [x2, y2]) := Lib.hid (⟨_, ha6⟩); have HF_6 : Hid (Below w.heap.size w u6) := Lib.hid (HF_5.out.grown hga6 HF_5.out.size (by simp)); have HNE6_0 : Hid (w.heap.size ≠ u5.heap.size) := Lib.hid (by have := Ngp_5.out.lt; omega); have HGE6 : Hid (w.heap.size ≤ u5.heap.size) := Lib.hid HF_5.out.size; clear ha6 hza6 hga6 Ngp_5 HF_5)) | ((with_reducible show wpList _ _ _ (⟨some 4, .alloc 35, _, _, _, _⟩ :: _) _ _); go_must (refine wpList_alloc_row rfl 35 rfl (.agg (zbs 64)) zero35 ?_; intro u7 ha7 hza7 hga7; have Ngp_7 := Lib.hid (Ngp_6.out.grown hga7 (by simp)); have Ngq_7 := Lib.hid (Ngq_6.out.grown hga7 (by simp)); have Ngr_7 : Hid (RAt u7 u6.heap.size [0, 0]) := Lib.hid (zrow (k := 2) ha7); have HF_7 : Hid (Below w.heap.size w u7) := Lib.hid (HF_6.out.grown hga7 HF_6.out.size (by simp)); have HNE7_1 : Hid (w.heap.size ≠ u6.heap.size) := Lib.hid (by have := Ngp_6.out.lt; omega); have HNE7_2 : Hid (u5.heap.size ≠ u6.heap.size) := Lib.hid (by have := Ngq_6.out.lt; omega); have HGE7 : Hid (w.heap.size ≤ u6.heap.size) := Lib.hid HF_6.out.size; clear ha7 hza7 hga7 Ngp_6 Ngq_6 HF_6)) | ((with_reducible show wpList _ _ _ (⟨_, .load 35 (.tmp 2), _, _, _, _⟩ :: _) _ _); go_must (refine wpList_exec rfl (vR [x1, y1]) (exec_loadP (.tmp 2) rfl (w.heap.size) x1 y1 rfl Ngp_7.out) ?_)) | fail)
  generalize u5.heap.size = gq at *
  generalize u6.heap.size = gr at *
  refine (C1.out _).mono ?_
  rintro e8 x8 ⟨rfl, hb8⟩
  have Ngp_8 := hKq Ngp_7 hb8
  have Ngq_8 := hKq Ngq_7 hb8
  have Ngr_8 := hKq Ngr_7 hb8
  have HF_8 := fTq HF_7 hb8
  clear hb8 Ngp_7 Ngq_7 Ngr_7 HF_7
  go_wp2_with (first | ((with_reducible show wpList _ _ _ (⟨_, .load 35 (.tmp 3), _, _, _, _⟩ :: _) _ _); go_must (refine wpList_exec rfl (vR [x2, y2]) (exec_loadP (.tmp 3) rfl (gq) x2 y2 rfl Ngq_8.out) ?_)) | fail)
  refine (C2.out _).mono ?_
  rintro e9 x9 ⟨rfl, hb9⟩
  have Ngp_9 := hKq Ngp_8 hb9
  have Ngq_9 := hKq Ngq_8 hb9
  have Ngr_9 := hKq Ngr_8 hb9
  have HF_9 := fTq HF_8 hb9
  clear hb9 Ngp_8 Ngq_8 Ngr_8 HF_8
  go_wp2_with (first | ((with_reducible show wpList _ _ _ (⟨some 5, .alloc 76, _, _, _, _⟩ :: _) _ _); go_must (refine wpList_alloc_row rfl 76 rfl (.agg (zbs 128)) zero76 ?_; intro u10 ha10 hza10 hga10; have Ngp_10 := Lib.hid (Ngp_9.out.grown hga10 (by simp)); have Ngq_10 := Lib.hid (Ngq_9.out.grown hga10 (by simp)); have Ngr_10 := Lib.hid (Ngr_9.out.grown hga10 (by simp)); have Ngu_10 : Hid (RAt u10 x9.heap.size [0, 0, 0, 0]) := Lib.hid (zrow (k := 4) ha10); have HF_10 : Hid (Below w.heap.size w u10) := Lib.hid (HF_9.out.grown hga10 HF_9.out.size (by simp)); have HNE10_3 : Hid (w.heap.size ≠ x9.heap.size) := Lib.hid (by have := Ngp_9.out.lt; omega); have HNE10_4 : Hid (gq ≠ x9.heap.size) := Lib.hid (by have := Ngq_9.out.lt; omega); have HNE10_5 : Hid (gr ≠ x9.heap.size) := Lib.hid (by have := Ngr_9.out.lt; omega); have HGE10 : Hid (w.heap.size ≤ x9.heap.size) := Lib.hid HF_9.out.size; clear ha10 hza10 hga10 Ngp_9 Ngq_9 Ngr_9 HF_9)) | ((with_reducible show wpList _ _ _ (⟨some 6, .alloc 76, _, _, _, _⟩ :: _) _ _); go_must (refine wpList_alloc_row rfl 76 rfl (.agg (zbs 128)) zero76 ?_; intro u11 ha11 hza11 hga11; have Ngp_11 := Lib.hid (Ngp_10.out.grown hga11 (by simp)); have Ngq_11 := Lib.hid (Ngq_10.out.grown hga11 (by simp)); have Ngr_11 := Lib.hid (Ngr_10.out.grown hga11 (by simp)); have Ngu_11 := Lib.hid (Ngu_10.out.grown hga11 (by simp)); have Ngv_11 : Hid (RAt u11 u10.heap.size [0, 0, 0, 0]) := Lib.hid (zrow (k := 4) ha11); have HF_11 : Hid (Below w.heap.size w u11) := Lib.hid (HF_10.out.grown hga11 HF_10.out.size (by simp)); have HNE11_6 : Hid (w.heap.size ≠ u10.heap.size) := Lib.hid (by have := Ngp_10.out.lt; omega); have HNE11_7 : Hid (gq ≠ u10.heap.size) := Lib.hid (by have := Ngq_10.out.lt; omega); have HNE11_8 : Hid (gr ≠ u10.heap.size) := Lib.hid (by have := Ngr_10.out.lt; omega); have HNE11_9 : Hid (x9.heap.size ≠ u10.heap.size) := Lib.hid (by have := Ngu_10.out.lt; omega); have HGE11 : Hid (w.heap.size ≤ u10.heap.size) := Lib.hid HF_10.out.size; clear ha11 hza11 hga11 Ngp_10 Ngq_10 Ngr_10 Ngu_10 HF_10)) | fail)
  generalize x9.heap.size = gu at *
  generalize u10.heap.size = gv at *
  refine (HR1.out _ _ _ Ngu_11.out Ngp_11.out HNE10_3.out.symm).mono ?_
  rintro e12 x12 ⟨rfl, hr12, hk12⟩
  have Ngp_12 := Lib.hid (Ngp_11.out.keeps hk12 (by have := HNE10_3.out; show ¬ _ = _; omega))
  have Ngq_12 := Lib.hid (Ngq_11.out.keeps hk12 (by have := HNE10_4.out; show ¬ _ = _; omega))
  have Ngr_12 := Lib.hid (Ngr_11.out.keeps hk12 (by have := HNE10_5.out; show ¬ _ = _; omega))
  have Ngu_12 : Hid (RAt x12 gu [x1, y1, 1, t1]) := Lib.hid hr12
  have Ngv_12 := Lib.hid (Ngv_11.out.keeps hk12 (by have := HNE11_9.out; show ¬ _ = _; omega))
  have HF_12 : Hid (Below w.heap.size w x12) := Lib.hid (HF_11.out.trans (hk12.below HF_11.out.size (fun k hlt => by have := HGE10.out; show ¬ _ = _; omega)))
  clear hr12 hk12 Ngp_11 Ngq_11 Ngr_11 Ngu_11 Ngv_11 HF_11
  go_wp2_with fail
  refine (HR2.out _ _ _ Ngv_12.out Ngq_12.out HNE11_7.out.symm).mono ?_
  rintro e13 x13 ⟨rfl, hr13, hk13⟩
  have Ngp_13 := Lib.hid (Ngp_12.out.keeps hk13 (by have := HNE11_6.out; show ¬ _ = _; omega))
  have Ngq_13 := Lib.hid (Ngq_12.out.keeps hk13 (by have := HNE11_7.out; show ¬ _ = _; omega))
  have Ngr_13 := Lib.hid (Ngr_12.out.keeps hk13 (by have := HNE11_8.out; show ¬ _ = _; omega))
  have Ngu_13 := Lib.hid (Ngu_12.out.keeps hk13 (by have := HNE11_9.out; show ¬ _ = _; omega))
  have Ngv_13 : Hid (RAt x13 gv [x2, y2, 1, t2]) := Lib.hid hr13
  have HF_13 : Hid (Below w.heap.size w x13) := Lib.hid (HF_12.out.trans (hk13.below HF_12.out.size (fun k hlt => by have := HGE11.out; show ¬ _ = _; omega)))
  clear hr13 hk13 Ngp_12 Ngq_12 Ngr_12 Ngu_12 Ngv_12 HF_12
  go_wp2_with fail
  refine (HA.out _ _ _ Ngu_13.out Ngv_13.out).mono ?_
  rintro e14 x14 ⟨rfl, hr14, hk14⟩
  have Ngp_14 := Lib.hid (Ngp_13.out.keeps hk14 (by have := HNE10_3.out; show ¬ _ = _; omega))
  have Ngq_14 := Lib.hid (Ngq_13.out.keeps hk14 (by have := HNE10_4.out; show ¬ _ = _; omega))
  have Ngr_14 := Lib.hid (Ngr_13.out.keeps hk14 (by have := HNE10_5.out; show ¬ _ = _; omega))
  have Ngu_14 : Hid (RAt x14 gu [X, Y, Z, T]) := Lib.hid hr14
  have Ngv_14 := Lib.hid (Ngv_13.out.keeps hk14 (by have := HNE11_9.out; show ¬ _ = _; omega))
  have HF_14 : Hid (Below w.heap.size w x14) := Lib.hid (HF_13.out.trans (hk14.below HF_13.out.size (fun k hlt => by have := HGE10.out; show ¬ _ = _; omega)))
  clear hr14 hk14 Ngp_13 Ngq_13 Ngr_13 Ngu_13 Ngv_13 HF_13
  go_wp2_with fail
  refine (HP.out _ _ Ngu_14.out).mono ?_
  rintro e15 x15 ⟨rfl, hb15⟩
  have Ngp_15 := hKq Ngp_14 hb15
  have Ngq_15 := hKq Ngq_14 hb15
  have Ngr_15 := hKq Ngr_14 hb15
  have Ngu_15 := hKq Ngu_14 hb15
  have Ngv_15 := hKq Ngv_14 hb15
  have HF_15 := fTq HF_14 hb15
  clear hb15 Ngp_14 Ngq_14 Ngr_14 Ngu_14 Ngv_14 HF_14
  go_wp2_with (first | ((with_reducible show wpList _ _ _ (⟨none, .store 35 (.tmp 4) (.tmp 19), _, _, _, _⟩ :: _) _ _); go_must (refine wpList_storeP rfl (.tmp 4) (.tmp 19) rfl (gr) [0, 0] PX PY rfl rfl Ngr_15.out rfl ?_; intro y16 hr16 hg16 hz16; have Ngp_16 := hGq Ngp_15 hg16 HNE7_1; have Ngq_16 := hGq Ngq_15 hg16 HNE7_2; have Ngr_16 : Hid (RAt y16 gr [PX, PY]) := Lib.hid hr16; have Ngu_16 := hGq Ngu_15 hg16 HNE10_5; have Ngv_16 := hGq Ngv_15 hg16 HNE11_8; have HF_16 : Hid (Below w.heap.size w y16) := Lib.hid (HF_15.out.grown hg16 HF_15.out.size (fun r hr => by injection hr with hr; have := HGE7.out; omega)); clear hr16 hg16 hz16 Ngp_15 Ngq_15 Ngr_15 Ngu_15 Ngv_15 HF_15)) | fail)
  go_wp2_with fail
  obtain ⟨tr, htr⟩ := Ngr_16.out
  refine bodyPost_ret (results_cell_row rfl _ _ gr tr (bcs (encs [PX, PY])).toArray _ _ rfl htr Try.underlying35 rfl (by rw [List.size_toArray, bcs_len, encs_len]; exact size35)) rfl ?_
  exact ⟨rfl, HF_16.out⟩

set_option maxHeartbeats 4000000 in
theorem PAdd_bad1 (x1 y1 x2 y2 : Nat) (w : World) (C1 : Hid (∀ w, Calls Try.prog 40 #[vR [x1, y1]] w (Gives (.int .i64 2) w)))
    (CZ : Hid (∀ w, Calls Try.prog 39 #[] w (Gives (vR [0, 1]) w))) :
    Calls Try.prog 44 #[vR [x1, y1], vR [x2, y2]] w (Gives (vR [0, 1]) w) := by
  have HF_0 : Hid (Below w.heap.size w w) := Lib.hid (Below.refl _ _)
  go_enter Try.func44, Try.ntmps44
  go_wp2_with (first | ((with_reducible show wpList _ _ _ (⟨some 2, .box 35 (.tmp 0), _, _, _, _⟩ :: _) _ _); go_must (refine wpList_box_row rfl 35 (.tmp 0) rfl (bcs (encs [x1, y1])).toArray rfl ?_; intro u17 ha17 hza17 hga17; have Ngp_17 : Hid (RAt u17 w.heap.size [x1, y1]) := Lib.hid (⟨_, ha17⟩); have HF_17 : Hid (Below w.heap.size w u17) := Lib.hid (HF_0.out.grown hga17 HF_0.out.size (by simp)); have HGE17 : Hid (w.heap.size ≤ w.heap.size) := Lib.hid HF_0.out.size; clear ha17 hza17 hga17 HF_0)) | ((with_reducible show wpList _ _ _ (⟨some 3, .box 35 (.tmp 1), _, _, _, _⟩ :: _) _ _); go_must (refine wpList_box_row rfl 35 (.tmp 1) rfl (bcs (encs [x2, y2])).toArray rfl ?_; intro u18 ha18 hza18 hga18; have Ngp_18 := Lib.hid (Ngp_17.out.grown hga18 (by simp)); have Ngq_18 : Hid (RAt u18 u17.heap.size [x2, y2]) := Lib.hid (⟨_, ha18⟩); have HF_18 : Hid (Below w.heap.size w u18) := Lib.hid (HF_17.out.grown hga18 HF_17.out.size (by simp)); have HNE18_0 : Hid (w.heap.size ≠ u17.heap.size) := Lib.hid (by have := Ngp_17.out.lt; omega); have HGE18 : Hid (w.heap.size ≤ u17.heap.size) := Lib.hid HF_17.out.size; clear ha18 hza18 hga18 Ngp_17 HF_17)) | ((with_reducible show wpList _ _ _ (⟨some 4, .alloc 35, _, _, _, _⟩ :: _) _ _); go_must (refine wpList_alloc_row rfl 35 rfl (.agg (zbs 64)) zero35 ?_; intro u19 ha19 hza19 hga19; have Ngp_19 := Lib.hid (Ngp_18.out.grown hga19 (by simp)); have Ngq_19 := Lib.hid (Ngq_18.out.grown hga19 (by simp)); have Ngr_19 : Hid (RAt u19 u18.heap.size [0, 0]) := Lib.hid (zrow (k := 2) ha19); have HF_19 : Hid (Below w.heap.size w u19) := Lib.hid (HF_18.out.grown hga19 HF_18.out.size (by simp)); have HNE19_1 : Hid (w.heap.size ≠ u18.heap.size) := Lib.hid (by have := Ngp_18.out.lt; omega); have HNE19_2 : Hid (u17.heap.size ≠ u18.heap.size) := Lib.hid (by have := Ngq_18.out.lt; omega); have HGE19 : Hid (w.heap.size ≤ u18.heap.size) := Lib.hid HF_18.out.size; clear ha19 hza19 hga19 Ngp_18 Ngq_18 HF_18)) | ((with_reducible show wpList _ _ _ (⟨_, .load 35 (.tmp 2), _, _, _, _⟩ :: _) _ _); go_must (refine wpList_exec rfl (vR [x1, y1]) (exec_loadP (.tmp 2) rfl (w.heap.size) x1 y1 rfl Ngp_19.out) ?_)) | fail)
  generalize u17.heap.size = gq at *
  generalize u18.heap.size = gr at *
  refine (C1.out _).mono ?_
  rintro e20 x20 ⟨rfl, hb20⟩
  have Ngp_20 := hKq Ngp_19 hb20
  have Ngq_20 := hKq Ngq_19 hb20
  have Ngr_20 := hKq Ngr_19 hb20
  have HF_20 := fTq HF_19 hb20
  clear hb20 Ngp_19 Ngq_19 Ngr_19 HF_19
  go_wp2_with fail
  refine (CZ.out _).mono ?_
  rintro e21 x21 ⟨rfl, hb21⟩
  have Ngp_21 := hKq Ngp_20 hb21
  have Ngq_21 := hKq Ngq_20 hb21
  have Ngr_21 := hKq Ngr_20 hb21
  have HF_21 := fTq HF_20 hb21
  clear hb21 Ngp_20 Ngq_20 Ngr_20 HF_20
  go_wp2_with (first | ((with_reducible show wpList _ _ _ (⟨none, .store 35 (.tmp 4) (.tmp 15), _, _, _, _⟩ :: _) _ _); go_must (refine wpList_storeP rfl (.tmp 4) (.tmp 15) rfl (gr) [0, 0] 0 1 rfl rfl Ngr_21.out rfl ?_; intro y22 hr22 hg22 hz22; have Ngp_22 := hGq Ngp_21 hg22 HNE19_1; have Ngq_22 := hGq Ngq_21 hg22 HNE19_2; have Ngr_22 : Hid (RAt y22 gr [0, 1]) := Lib.hid hr22; have HF_22 : Hid (Below w.heap.size w y22) := Lib.hid (HF_21.out.grown hg22 HF_21.out.size (fun r hr => by injection hr with hr; have := HGE19.out; omega)); clear hr22 hg22 hz22 Ngp_21 Ngq_21 Ngr_21 HF_21)) | fail)
  go_wp2_with fail
  obtain ⟨tr, htr⟩ := Ngr_22.out
  refine bodyPost_ret (results_cell_row rfl _ _ gr tr (bcs (encs [0, 1])).toArray _ _ rfl htr Try.underlying35 rfl (by rw [List.size_toArray, bcs_len, encs_len]; exact size35)) rfl ?_
  exact ⟨rfl, HF_22.out⟩

set_option maxHeartbeats 4000000 in
theorem PAdd_bad2 (x1 y1 x2 y2 : Nat) (w : World) (C1 : Hid (∀ w, Calls Try.prog 40 #[vR [x1, y1]] w (Gives (.int .i64 0) w))) (C2 : Hid (∀ w, Calls Try.prog 40 #[vR [x2, y2]] w (Gives (.int .i64 2) w)))
    (CZ : Hid (∀ w, Calls Try.prog 39 #[] w (Gives (vR [0, 1]) w))) :
    Calls Try.prog 44 #[vR [x1, y1], vR [x2, y2]] w (Gives (vR [0, 1]) w) := by
  have HF_0 : Hid (Below w.heap.size w w) := Lib.hid (Below.refl _ _)
  go_enter Try.func44, Try.ntmps44
  go_wp2_with (first | ((with_reducible show wpList _ _ _ (⟨some 2, .box 35 (.tmp 0), _, _, _, _⟩ :: _) _ _); go_must (refine wpList_box_row rfl 35 (.tmp 0) rfl (bcs (encs [x1, y1])).toArray rfl ?_; intro u23 ha23 hza23 hga23; have Ngp_23 : Hid (RAt u23 w.heap.size [x1, y1]) := Lib.hid (⟨_, ha23⟩); have HF_23 : Hid (Below w.heap.size w u23) := Lib.hid (HF_0.out.grown hga23 HF_0.out.size (by simp)); have HGE23 : Hid (w.heap.size ≤ w.heap.size) := Lib.hid HF_0.out.size; clear ha23 hza23 hga23 HF_0)) | ((with_reducible show wpList _ _ _ (⟨some 3, .box 35 (.tmp 1), _, _, _, _⟩ :: _) _ _); go_must (refine wpList_box_row rfl 35 (.tmp 1) rfl (bcs (encs [x2, y2])).toArray rfl ?_; intro u24 ha24 hza24 hga24; have Ngp_24 := Lib.hid (Ngp_23.out.grown hga24 (by simp)); have Ngq_24 : Hid (RAt u24 u23.heap.size [x2, y2]) := Lib.hid (⟨_, ha24⟩); have HF_24 : Hid (Below w.heap.size w u24) := Lib.hid (HF_23.out.grown hga24 HF_23.out.size (by simp)); have HNE24_0 : Hid (w.heap.size ≠ u23.heap.size) := Lib.hid (by have := Ngp_23.out.lt; omega); have HGE24 : Hid (w.heap.size ≤ u23.heap.size) := Lib.hid HF_23.out.size; clear ha24 hza24 hga24 Ngp_23 HF_23)) | ((with_reducible show wpList _ _ _ (⟨some 4, .alloc 35, _, _, _, _⟩ :: _) _ _); go_must (refine wpList_alloc_row rfl 35 rfl (.agg (zbs 64)) zero35 ?_; intro u25 ha25 hza25 hga25; have Ngp_25 := Lib.hid (Ngp_24.out.grown hga25 (by simp)); have Ngq_25 := Lib.hid (Ngq_24.out.grown hga25 (by simp)); have Ngr_25 : Hid (RAt u25 u24.heap.size [0, 0]) := Lib.hid (zrow (k := 2) ha25); have HF_25 : Hid (Below w.heap.size w u25) := Lib.hid (HF_24.out.grown hga25 HF_24.out.size (by simp)); have HNE25_1 : Hid (w.heap.size ≠ u24.heap.size) := Lib.hid (by have := Ngp_24.out.lt; omega); have HNE25_2 : Hid (u23.heap.size ≠ u24.heap.size) := Lib.hid (by have := Ngq_24.out.lt; omega); have HGE25 : Hid (w.heap.size ≤ u24.heap.size) := Lib.hid HF_24.out.size; clear ha25 hza25 hga25 Ngp_24 Ngq_24 HF_24)) | ((with_reducible show wpList _ _ _ (⟨_, .load 35 (.tmp 2), _, _, _, _⟩ :: _) _ _); go_must (refine wpList_exec rfl (vR [x1, y1]) (exec_loadP (.tmp 2) rfl (w.heap.size) x1 y1 rfl Ngp_25.out) ?_)) | fail)
  generalize u23.heap.size = gq at *
  generalize u24.heap.size = gr at *
  refine (C1.out _).mono ?_
  rintro e26 x26 ⟨rfl, hb26⟩
  have Ngp_26 := hKq Ngp_25 hb26
  have Ngq_26 := hKq Ngq_25 hb26
  have Ngr_26 := hKq Ngr_25 hb26
  have HF_26 := fTq HF_25 hb26
  clear hb26 Ngp_25 Ngq_25 Ngr_25 HF_25
  go_wp2_with (first | ((with_reducible show wpList _ _ _ (⟨_, .load 35 (.tmp 3), _, _, _, _⟩ :: _) _ _); go_must (refine wpList_exec rfl (vR [x2, y2]) (exec_loadP (.tmp 3) rfl (gq) x2 y2 rfl Ngq_26.out) ?_)) | fail)
  refine (C2.out _).mono ?_
  rintro e27 x27 ⟨rfl, hb27⟩
  have Ngp_27 := hKq Ngp_26 hb27
  have Ngq_27 := hKq Ngq_26 hb27
  have Ngr_27 := hKq Ngr_26 hb27
  have HF_27 := fTq HF_26 hb27
  clear hb27 Ngp_26 Ngq_26 Ngr_26 HF_26
  go_wp2_with fail
  refine (CZ.out _).mono ?_
  rintro e28 x28 ⟨rfl, hb28⟩
  have Ngp_28 := hKq Ngp_27 hb28
  have Ngq_28 := hKq Ngq_27 hb28
  have Ngr_28 := hKq Ngr_27 hb28
  have HF_28 := fTq HF_27 hb28
  clear hb28 Ngp_27 Ngq_27 Ngr_27 HF_27
  go_wp2_with (first | ((with_reducible show wpList _ _ _ (⟨none, .store 35 (.tmp 4) (.tmp 15), _, _, _, _⟩ :: _) _ _); go_must (refine wpList_storeP rfl (.tmp 4) (.tmp 15) rfl (gr) [0, 0] 0 1 rfl rfl Ngr_28.out rfl ?_; intro y29 hr29 hg29 hz29; have Ngp_29 := hGq Ngp_28 hg29 HNE25_1; have Ngq_29 := hGq Ngq_28 hg29 HNE25_2; have Ngr_29 : Hid (RAt y29 gr [0, 1]) := Lib.hid hr29; have HF_29 : Hid (Below w.heap.size w y29) := Lib.hid (HF_28.out.grown hg29 HF_28.out.size (fun r hr => by injection hr with hr; have := HGE25.out; omega)); clear hr29 hg29 hz29 Ngp_28 Ngq_28 Ngr_28 HF_28)) | fail)
  go_wp2_with fail
  obtain ⟨tr, htr⟩ := Ngr_29.out
  refine bodyPost_ret (results_cell_row rfl _ _ gr tr (bcs (encs [0, 1])).toArray _ _ rfl htr Try.underlying35 rfl (by rw [List.size_toArray, bcs_len, encs_len]; exact size35)) rfl ?_
  exact ⟨rfl, HF_29.out⟩

set_option maxHeartbeats 4000000 in
theorem PNeg_core (x1 y1 m : Nat) (w : World)
    (C1 : Hid (∀ w, Calls Try.prog 40 #[vR [x1, y1]] w (Gives (.int .i64 0) w))) (C0 : Hid (∀ w, Calls Try.prog 23 #[vN x1] w (Gives (vN m) w))) :
    Calls Try.prog 51 #[vR [x1, y1]] w (Gives (vR [m, y1]) w) := by
  have HF_0 : Hid (Below w.heap.size w w) := Lib.hid (Below.refl _ _)
  go_enter Try.func51, Try.ntmps51
  go_wp2_with (first | ((with_reducible show wpList _ _ _ (⟨some 1, .box 35 (.tmp 0), _, _, _, _⟩ :: _) _ _); go_must (refine wpList_box_row rfl 35 (.tmp 0) rfl (bcs (encs [x1, y1])).toArray rfl ?_; intro u30 ha30 hza30 hga30; have Ngp_30 : Hid (RAt u30 w.heap.size [x1, y1]) := Lib.hid (⟨_, ha30⟩); have HF_30 : Hid (Below w.heap.size w u30) := Lib.hid (HF_0.out.grown hga30 HF_0.out.size (by simp)); have HGE30 : Hid (w.heap.size ≤ w.heap.size) := Lib.hid HF_0.out.size; clear ha30 hza30 hga30 HF_0)) | ((with_reducible show wpList _ _ _ (⟨some 2, .alloc 35, _, _, _, _⟩ :: _) _ _); go_must (refine wpList_alloc_row rfl 35 rfl (.agg (zbs 64)) zero35 ?_; intro u31 ha31 hza31 hga31; have Ngp_31 := Lib.hid (Ngp_30.out.grown hga31 (by simp)); have Ngr_31 : Hid (RAt u31 u30.heap.size [0, 0]) := Lib.hid (zrow (k := 2) ha31); have HF_31 : Hid (Below w.heap.size w u31) := Lib.hid (HF_30.out.grown hga31 HF_30.out.size (by simp)); have HNE31_0 : Hid (w.heap.size ≠ u30.heap.size) := Lib.hid (by have := Ngp_30.out.lt; omega); have HGE31 : Hid (w.heap.size ≤ u30.heap.size) := Lib.hid HF_30.out.size; clear ha31 hza31 hga31 Ngp_30 HF_30)) | ((with_reducible show wpList _ _ _ (⟨_, .load 35 (.tmp 1), _, _, _, _⟩ :: _) _ _); go_must (refine wpList_exec rfl (vR [x1, y1]) (exec_loadP (.tmp 1) rfl (w.heap.size) x1 y1 rfl Ngp_31.out) ?_)) | fail)
  generalize u30.heap.size = gr at *
  refine (C1.out _).mono ?_
  rintro e32 x32 ⟨rfl, hb32⟩
  have Ngp_32 := hKq Ngp_31 hb32
  have Ngr_32 := hKq Ngr_31 hb32
  have HF_32 := fTq HF_31 hb32
  clear hb32 Ngp_31 Ngr_31 HF_31
  go_wp2_with fail
  have HLT33_0 := lR Ngp_32
  have HLT33_1 := lR Ngr_32
  have HLO33 : Hid (w.heap.size ≤ x32.heap.size) := Lib.hid HF_32.out.size
  refine region_split (fun a' W => RAt W w.heap.size [x1, y1] ∧ RAt W gr [m, y1] ∧ Below w.heap.size w W ∧ a' = ⟨#[vR [x1, y1], .pointer (some ⟨w.heap.size, 0, none⟩), .pointer (some ⟨gr, 0, none⟩), vR [x1, y1], .int .i64 0, .bool false, undef, .pointer (some ⟨w.heap.size, 0, none⟩), vN x1, vN m, .pointer (some ⟨w.heap.size, 32, none⟩), vN y1, vR [m, y1]], []⟩) ?_ ?_
  · refine startW (fun j => j == 6) (x32.heap.size) (by kernel_rfl) ?_
    obtain ⟨D33, hD33⟩ : ∃ D, D = x32.drew := ⟨_, rfl⟩
    rw [← hD33]
    have HL_33 := dLq hD33
    have Ngp_33 := dRq hD33 Ngp_32
    have Ngr_33 := dRq hD33 Ngr_32
    have HF_33 : Hid (Below w.heap.size w D33) := Lib.hid (by rw [hD33]; exact below_drewN' HF_32.out 1)
    clear hD33 Ngp_32 Ngr_32 HF_32
    refine tA (i := 0) (oi := oEG0) ?_
    refine ⟨.pointer (some ⟨w.heap.size, 0, none⟩), fun w' => exec_field 35 (.tmp 1) 0 rfl _ 0 rfl (fld35_0 _), ?_⟩
    simp only [oEG0, Act.put, zA, zB, zC]
    refine takeT (i := 1) (oi := oEG1) (vN x1) rfl (by kernel_rfl) (by kernel_rfl) (by kernel_rfl) (by kernel_rfl) (by kernel_rfl) (fun _ _ _ h => nomatch h.1) (by rfl) (fun w' hk => exec_loadF (.tmp 7) rfl (w.heap.size) 0 0 rfl [x1, y1] x1 rfl (Ngp_33.out.below hk HLT33_0.out) rfl) ?_
    simp only [oEG1, Act.put, zA, zB, zC]
    refine tA (i := 3) (oi := oEG2) ?_
    refine ⟨.pointer (some ⟨w.heap.size, 32, none⟩), fun w' => exec_field 35 (.tmp 1) 1 rfl _ 32 rfl (fld35_1 _), ?_⟩
    simp only [oEG2, Act.put, zA, zB, zC]
    refine takeT (i := 4) (oi := oEG3) (vN y1) rfl (by kernel_rfl) (by kernel_rfl) (by kernel_rfl) (by kernel_rfl) (by kernel_rfl) (fun _ _ _ h => nomatch h.1) (by rfl) (fun w' hk => exec_loadF (.tmp 10) rfl (w.heap.size) 1 32 rfl [x1, y1] y1 rfl (Ngp_33.out.below hk HLT33_0.out) rfl) ?_
    simp only [oEG3, Act.put, zA, zB, zC]
    refine callW (i := 2) (oi := oEG4) rfl (by kernel_rfl) (by rfl) (exec_callL 23 [.tmp 8] #[23] rfl [vN x1] rfl (CG23 _)) ((C0.out D33).mono ?_)
    rintro e34 W34 ⟨rfl, hb34⟩
    refine ⟨_, rfl, fun _ => hb34.mono HL_33.out, ?_⟩
    have Ngp_34 := hKq Ngp_33 hb34
    have Ngr_34 := hKq Ngr_33 hb34
    have HF_34 := fTq HF_33 hb34
    have HL_34 := lT HL_33 hb34
    clear hb34 HL_33 Ngp_33 Ngr_33 HF_33
    simp only [oEG4, Act.put, zA, zB, zC]
    refine tA (i := 5) (oi := oEG5) ?_
    refine ⟨vR [m, y1], fun w' => exec_build35 (.tmp 9) (.tmp 11) m y1 rfl rfl rfl, ?_⟩
    simp only [oEG5, Act.put, zA, zB, zC]
    refine storeW_P (i := 6) (oi := oEG6) rfl (by kernel_rfl) (by rfl) (.tmp 2) (.tmp 12) rfl (gr) [0, 0] m y1 rfl rfl Ngr_34.out rfl rfl ?_
    intro W35 hr35 hg35 hz35
    simp only [oEG6, Act.put, zA, zB, zC]
    have Ngp_35 := hGq Ngp_34 hg35 HNE31_0
    have Ngr_35 : Hid (RAt W35 gr [m, y1]) := Lib.hid hr35
    have HF_35 : Hid (Below w.heap.size w W35) := Lib.hid (HF_34.out.grown hg35 HF_34.out.size (fun r hr => by injection hr with hr; have := HGE31.out; omega))
    have HL_35 := lG HL_34 hg35
    clear hr35 hg35 hz35 HL_34 Ngp_34 Ngr_34 HF_34
    refine doneW (by kernel_rfl) ⟨rfl, ?_⟩ _
    exact ⟨Ngp_35.out, Ngr_35.out, HF_35.out, rfl⟩
  rintro a' v36 ⟨h0, h1, hF, rfl⟩
  have Ngp_36 := Lib.hid h0
  have Ngr_36 := Lib.hid h1
  have HF_36 := Lib.hid hF
  clear h0 h1 hF HLT33_0 HLT33_1 HLO33 Ngp_32 Ngr_32 HF_32
  go_wp2_with fail
  obtain ⟨tr, htr⟩ := Ngr_36.out
  refine bodyPost_ret (results_cell_row rfl _ _ gr tr (bcs (encs [m, y1])).toArray _ _ rfl htr Try.underlying35 rfl (by rw [List.size_toArray, bcs_len, encs_len]; exact size35)) rfl ?_
  exact ⟨rfl, HF_36.out⟩

set_option maxHeartbeats 4000000 in
theorem PNeg_bad (x1 y1 : Nat) (w : World)
    (C1 : Hid (∀ w, Calls Try.prog 40 #[vR [x1, y1]] w (Gives (.int .i64 2) w))) (CZ : Hid (∀ w, Calls Try.prog 39 #[] w (Gives (vR [0, 1]) w))) :
    Calls Try.prog 51 #[vR [x1, y1]] w (Gives (vR [0, 1]) w) := by
  have HF_0 : Hid (Below w.heap.size w w) := Lib.hid (Below.refl _ _)
  go_enter Try.func51, Try.ntmps51
  go_wp2_with (first | ((with_reducible show wpList _ _ _ (⟨some 1, .box 35 (.tmp 0), _, _, _, _⟩ :: _) _ _); go_must (refine wpList_box_row rfl 35 (.tmp 0) rfl (bcs (encs [x1, y1])).toArray rfl ?_; intro u37 ha37 hza37 hga37; have Ngp_37 : Hid (RAt u37 w.heap.size [x1, y1]) := Lib.hid (⟨_, ha37⟩); have HF_37 : Hid (Below w.heap.size w u37) := Lib.hid (HF_0.out.grown hga37 HF_0.out.size (by simp)); have HGE37 : Hid (w.heap.size ≤ w.heap.size) := Lib.hid HF_0.out.size; clear ha37 hza37 hga37 HF_0)) | ((with_reducible show wpList _ _ _ (⟨some 2, .alloc 35, _, _, _, _⟩ :: _) _ _); go_must (refine wpList_alloc_row rfl 35 rfl (.agg (zbs 64)) zero35 ?_; intro u38 ha38 hza38 hga38; have Ngp_38 := Lib.hid (Ngp_37.out.grown hga38 (by simp)); have Ngr_38 : Hid (RAt u38 u37.heap.size [0, 0]) := Lib.hid (zrow (k := 2) ha38); have HF_38 : Hid (Below w.heap.size w u38) := Lib.hid (HF_37.out.grown hga38 HF_37.out.size (by simp)); have HNE38_0 : Hid (w.heap.size ≠ u37.heap.size) := Lib.hid (by have := Ngp_37.out.lt; omega); have HGE38 : Hid (w.heap.size ≤ u37.heap.size) := Lib.hid HF_37.out.size; clear ha38 hza38 hga38 Ngp_37 HF_37)) | ((with_reducible show wpList _ _ _ (⟨_, .load 35 (.tmp 1), _, _, _, _⟩ :: _) _ _); go_must (refine wpList_exec rfl (vR [x1, y1]) (exec_loadP (.tmp 1) rfl (w.heap.size) x1 y1 rfl Ngp_38.out) ?_)) | fail)
  generalize u37.heap.size = gr at *
  refine (C1.out _).mono ?_
  rintro e39 x39 ⟨rfl, hb39⟩
  have Ngp_39 := hKq Ngp_38 hb39
  have Ngr_39 := hKq Ngr_38 hb39
  have HF_39 := fTq HF_38 hb39
  clear hb39 Ngp_38 Ngr_38 HF_38
  go_wp2_with fail
  refine (CZ.out _).mono ?_
  rintro e40 x40 ⟨rfl, hb40⟩
  have Ngp_40 := hKq Ngp_39 hb40
  have Ngr_40 := hKq Ngr_39 hb40
  have HF_40 := fTq HF_39 hb40
  clear hb40 Ngp_39 Ngr_39 HF_39
  go_wp2_with (first | ((with_reducible show wpList _ _ _ (⟨none, .store 35 (.tmp 2) (.tmp 6), _, _, _, _⟩ :: _) _ _); go_must (refine wpList_storeP rfl (.tmp 2) (.tmp 6) rfl (gr) [0, 0] 0 1 rfl rfl Ngr_40.out rfl ?_; intro y41 hr41 hg41 hz41; have Ngp_41 := hGq Ngp_40 hg41 HNE38_0; have Ngr_41 : Hid (RAt y41 gr [0, 1]) := Lib.hid hr41; have HF_41 : Hid (Below w.heap.size w y41) := Lib.hid (HF_40.out.grown hg41 HF_40.out.size (fun r hr => by injection hr with hr; have := HGE38.out; omega)); clear hr41 hg41 hz41 Ngp_40 Ngr_40 HF_40)) | fail)
  go_wp2_with fail
  obtain ⟨tr, htr⟩ := Ngr_41.out
  refine bodyPost_ret (results_cell_row rfl _ _ gr tr (bcs (encs [0, 1])).toArray _ _ rfl htr Try.underlying35 rfl (by rw [List.size_toArray, bcs_len, encs_len]; exact size35)) rfl ?_
  exact ⟨rfl, HF_41.out⟩
end Go.Proofs.Ytgdimnbdnepbgaa
