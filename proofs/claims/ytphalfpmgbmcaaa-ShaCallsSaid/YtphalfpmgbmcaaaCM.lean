/- The law of calls, the last third. No statement is proved here. -/
import Derived.Test.YtphalfpmgbmcaaaCL
namespace Go.Proofs.Ytphalfpmgbmcaaa
open Go.RowKit
set_option linter.unusedVariables false
set_option linter.unusedSimpArgs false

/-- A row. -/
def BX (W : World) (g : Nat) (vs : List Value) (t : TypeId) : Prop := W.heap[g]? = some (.cells vs.toArray t (0, 0))
theorem BX.keep {W W' : World} {g : Nat} {vs : List Value} {t : TypeId} (h : BX W g vs t) (hb : Below W.heap.size W W') : BX W' g vs t := (hb.block g (Array.getElem?_eq_some_iff.1 h).1).trans h
theorem BX.cells {W : World} {g : Nat} {vs : List Value} {t : TypeId} (h : BX W g vs t) : ∀ i u, vs[i]? = some u → W.cell? ⟨g, 0 + i, none⟩ = some u := fun i u hu => by
  rw [Nat.zero_add]
  exact row_cells h i u (by simpa using hu)

/-- What the law's calls give. -/
structure Kc (s : St) (p : List UInt8) (PC S5 S2 : St) (KA : Array Value) : Prop where
  cp1 : ∀ W, Calls Try.prog 21 #[.agg (ucs s.words).toArray, .agg (bcs p).toArray] W (Gives (.agg (ucs PC.words).toArray) W)
  cp2 : ∀ W, Calls Try.prog 22 #[.agg (ucs s.words).toArray, .agg (bcs p).toArray] W (Gives (.agg (ucs PC.words).toArray) W)
  e27 : ∀ w, (Op.equalIn 10000 27 (.agg (ucs PC.words).toArray) (.agg (ucs PC.words).toArray)).run Try.prog w = .ok true w
  e25 : ∀ w, (Op.equalIn 10000 25 (.agg KA) (.agg KA)).run Try.prog w = .ok true w
  ck1 : ∀ W, Calls Try.prog 10 #[] W (Gives (.agg KA) W)
  ck2 : ∀ W, Calls Try.prog 23 #[] W (Gives (.agg KA) W)
  cs1 : ∀ W, Calls Try.prog 11 #[] W (Gives (.agg (ucs S5.words).toArray) W)
  cs2 : ∀ W, Calls Try.prog 24 #[] W (Gives (.agg (ucs S5.words).toArray) W)
  e27a : ∀ w, (Op.equalIn 10000 27 (.agg (ucs S5.words).toArray) (.agg (ucs S5.words).toArray)).run Try.prog w = .ok true w
  ct1 : ∀ W, Calls Try.prog 25 #[] W (Gives (.agg (ucs S2.words).toArray) W)
  ct2 : ∀ W, Calls Try.prog 26 #[] W (Gives (.agg (ucs S2.words).toArray) W)
  e27b : ∀ w, (Op.equalIn 10000 27 (.agg (ucs S2.words).toArray) (.agg (ucs S2.words).toArray)).run Try.prog w = .ok true w
theorem kc_mk (s : St) (hs : s.Fits) (p : List UInt8) (hp : p.length = 128) : Kc s p (piece s p) start512 start256 K80a :=
  ⟨piece_any s hs p hp, rPiece_any s hs p hp, eq27 (piece s p).words (words_len _) (words_lt (piece_fits s p)), eqK, K_any, rK_any, start_any, rstart_any,
    eq27 start512.words (words_len _) (words_lt start512_fits), startShort_any, rshort_any, eq27 start256.words (words_len _) (words_lt start256_fits)⟩
/-- The operations of the law's region. -/
def ops4 : Array Oper := #[{ dst := some 19, op := Op.move (Operand.tmp 0), type := 30, pos := "law.go:38", after := #[], guard := none },
  { dst := some 20, op := Op.call { callee := Callee.value (Operand.func 16), args := #[Operand.tmp 19], argTypes := #[30] }, type := 30, pos := "law.go:38", after := #[{ on := 0, ground := Ground.data }], guard := none },
  { dst := some 21, op := Op.move (Operand.tmp 1), type := 30, pos := "law.go:38", after := #[], guard := none },
  { dst := some 22, op := Op.call { callee := Callee.value (Operand.func 16), args := #[Operand.tmp 21], argTypes := #[30] }, type := 30, pos := "law.go:38", after := #[{ on := 2, ground := Ground.data }, { on := 1, ground := Ground.chain }], guard := none },
  { dst := some 23, op := Op.buildSlice 49 2 #[(0, Operand.tmp 20), (1, Operand.tmp 22)], type := 49, pos := "law.go:38", after := #[{ on := 1, ground := Ground.data }, { on := 3, ground := Ground.data }], guard := none },
  { dst := some 24, op := Op.call { callee := Callee.value (Operand.func 9), args := #[Operand.tmp 23], argTypes := #[49] }, type := 22, pos := "law.go:38", after := #[{ on := 4, ground := Ground.data }, { on := 3, ground := Ground.chain }], guard := none },
  { dst := some 25, op := Op.move (Operand.tmp 0), type := 30, pos := "law.go:38", after := #[], guard := none },
  { dst := some 26, op := Op.move (Operand.tmp 1), type := 30, pos := "law.go:38", after := #[], guard := none },
  { dst := some 27, op := Op.buildSlice 49 2 #[(0, Operand.tmp 25), (1, Operand.tmp 26)], type := 49, pos := "law.go:38", after := #[{ on := 6, ground := Ground.data }, { on := 7, ground := Ground.data }], guard := none },
  { dst := some 28, op := Op.call { callee := Callee.value (Operand.func 17), args := #[Operand.tmp 27], argTypes := #[49] }, type := 22, pos := "law.go:38", after := #[{ on := 8, ground := Ground.data }, { on := 5, ground := Ground.chain }], guard := none },
  { dst := some 29, op := Op.binOp BinOp.eql 22 (Operand.tmp 24) (Operand.tmp 28) 22, type := 4, pos := "law.go:38", after := #[{ on := 5, ground := Ground.data }, { on := 9, ground := Ground.data }], guard := none },
  { dst := some 30, op := Op.move (Operand.tmp 29), type := 4, pos := "law.go:38", after := #[{ on := 10, ground := Ground.data }, { on := 9, ground := Ground.chain }], guard := none },
  { dst := some 31, op := Op.move (Operand.tmp 0), type := 30, pos := "law.go:38", after := #[{ on := 11, ground := Ground.guard }], guard := some (11, true) },
  { dst := some 32, op := Op.call { callee := Callee.value (Operand.func 16), args := #[Operand.tmp 31], argTypes := #[30] }, type := 30, pos := "law.go:38", after := #[{ on := 12, ground := Ground.data }, { on := 11, ground := Ground.chain }, { on := 11, ground := Ground.guard }], guard := some (11, true) },
  { dst := some 33, op := Op.buildSlice 49 1 #[(0, Operand.tmp 32)], type := 49, pos := "law.go:38", after := #[{ on := 13, ground := Ground.data }, { on := 11, ground := Ground.guard }], guard := some (11, true) },
  { dst := some 34, op := Op.call { callee := Callee.value (Operand.func 18), args := #[Operand.tmp 33], argTypes := #[49] }, type := 35, pos := "law.go:38", after := #[{ on := 14, ground := Ground.data }, { on := 13, ground := Ground.chain }, { on := 11, ground := Ground.guard }], guard := some (11, true) },
  { dst := some 35, op := Op.move (Operand.tmp 0), type := 30, pos := "law.go:38", after := #[{ on := 11, ground := Ground.guard }], guard := some (11, true) },
  { dst := some 36, op := Op.buildSlice 49 1 #[(0, Operand.tmp 35)], type := 49, pos := "law.go:38", after := #[{ on := 16, ground := Ground.data }, { on := 11, ground := Ground.guard }], guard := some (11, true) },
  { dst := some 37, op := Op.call { callee := Callee.value (Operand.func 19), args := #[Operand.tmp 36], argTypes := #[49] }, type := 35, pos := "law.go:38", after := #[{ on := 17, ground := Ground.data }, { on := 15, ground := Ground.chain }, { on := 11, ground := Ground.guard }], guard := some (11, true) },
  { dst := some 38, op := Op.binOp BinOp.eql 35 (Operand.tmp 34) (Operand.tmp 37) 35, type := 4, pos := "law.go:38", after := #[{ on := 15, ground := Ground.data }, { on := 18, ground := Ground.data }, { on := 11, ground := Ground.guard }], guard := some (11, true) },
  { dst := some 39, op := Op.pick (Operand.tmp 30) (Operand.tmp 38) (Operand.const (Value.bool false)), type := 4, pos := "law.go:38", after := #[{ on := 11, ground := Ground.data }, { on := 19, ground := Ground.data }], guard := none },
  { dst := some 40, op := Op.move (Operand.tmp 39), type := 4, pos := "law.go:38", after := #[{ on := 20, ground := Ground.data }, { on := 18, ground := Ground.chain }], guard := none },
  { dst := some 41, op := Op.move (Operand.tmp 1), type := 30, pos := "law.go:38", after := #[{ on := 21, ground := Ground.guard }], guard := some (21, true) },
  { dst := some 42, op := Op.call { callee := Callee.value (Operand.func 16), args := #[Operand.tmp 41], argTypes := #[30] }, type := 30, pos := "law.go:38", after := #[{ on := 22, ground := Ground.data }, { on := 21, ground := Ground.chain }, { on := 21, ground := Ground.guard }], guard := some (21, true) },
  { dst := some 43, op := Op.call { callee := Callee.value (Operand.func 15), args := #[Operand.tmp 42], argTypes := #[30] }, type := 30, pos := "law.go:38", after := #[{ on := 23, ground := Ground.data }, { on := 23, ground := Ground.chain }, { on := 21, ground := Ground.guard }], guard := some (21, true) },
  { dst := some 44, op := Op.convert 30 9 (Operand.tmp 43), type := 9, pos := "law.go:38", after := #[{ on := 24, ground := Ground.data }, { on := 21, ground := Ground.guard }], guard := some (21, true) },
  { dst := some 45, op := Op.move (Operand.tmp 1), type := 30, pos := "law.go:38", after := #[{ on := 21, ground := Ground.guard }], guard := some (21, true) },
  { dst := some 46, op := Op.call { callee := Callee.value (Operand.func 20), args := #[Operand.tmp 45], argTypes := #[30] }, type := 30, pos := "law.go:38", after := #[{ on := 26, ground := Ground.data }, { on := 24, ground := Ground.chain }, { on := 21, ground := Ground.guard }], guard := some (21, true) },
  { dst := some 47, op := Op.convert 30 9 (Operand.tmp 46), type := 9, pos := "law.go:38", after := #[{ on := 27, ground := Ground.data }, { on := 21, ground := Ground.guard }], guard := some (21, true) },
  { dst := some 48, op := Op.binOp BinOp.eql 9 (Operand.tmp 44) (Operand.tmp 47) 9, type := 4, pos := "law.go:38", after := #[{ on := 25, ground := Ground.data }, { on := 28, ground := Ground.data }, { on := 21, ground := Ground.guard }], guard := some (21, true) },
  { dst := some 49, op := Op.pick (Operand.tmp 40) (Operand.tmp 48) (Operand.const (Value.bool false)), type := 4, pos := "law.go:38", after := #[{ on := 21, ground := Ground.data }, { on := 29, ground := Ground.data }], guard := none },
  { dst := some 50, op := Op.move (Operand.tmp 49), type := 4, pos := "law.go:38", after := #[{ on := 30, ground := Ground.data }, { on := 27, ground := Ground.chain }], guard := none },
  { dst := some 51, op := Op.load 27 (Operand.tmp 6), type := 27, pos := "law.go:38", after := #[{ on := 31, ground := Ground.guard }], guard := some (31, true) },
  { dst := some 52, op := Op.load 33 (Operand.tmp 7), type := 33, pos := "law.go:38", after := #[{ on := 31, ground := Ground.guard }], guard := some (31, true) },
  { dst := some 53, op := Op.call { callee := Callee.value (Operand.func 21), args := #[Operand.tmp 51, Operand.tmp 52], argTypes := #[27, 33] }, type := 27, pos := "law.go:38", after := #[{ on := 32, ground := Ground.data }, { on := 33, ground := Ground.data }, { on := 31, ground := Ground.chain }, { on := 31, ground := Ground.guard }], guard := some (31, true) },
  { dst := some 54, op := Op.load 27 (Operand.tmp 6), type := 27, pos := "law.go:38", after := #[{ on := 31, ground := Ground.guard }], guard := some (31, true) },
  { dst := some 55, op := Op.load 33 (Operand.tmp 7), type := 33, pos := "law.go:38", after := #[{ on := 31, ground := Ground.guard }], guard := some (31, true) },
  { dst := some 56, op := Op.call { callee := Callee.value (Operand.func 22), args := #[Operand.tmp 54, Operand.tmp 55], argTypes := #[27, 33] }, type := 27, pos := "law.go:38", after := #[{ on := 35, ground := Ground.data }, { on := 36, ground := Ground.data }, { on := 34, ground := Ground.chain }, { on := 31, ground := Ground.guard }], guard := some (31, true) },
  { dst := some 57, op := Op.binOp BinOp.eql 27 (Operand.tmp 53) (Operand.tmp 56) 27, type := 4, pos := "law.go:38", after := #[{ on := 34, ground := Ground.data }, { on := 37, ground := Ground.data }, { on := 31, ground := Ground.guard }], guard := some (31, true) },
  { dst := some 58, op := Op.pick (Operand.tmp 50) (Operand.tmp 57) (Operand.const (Value.bool false)), type := 4, pos := "law.go:38", after := #[{ on := 31, ground := Ground.data }, { on := 38, ground := Ground.data }], guard := none },
  { dst := some 59, op := Op.move (Operand.tmp 58), type := 4, pos := "law.go:38", after := #[{ on := 39, ground := Ground.data }, { on := 37, ground := Ground.chain }], guard := none },
  { dst := some 60, op := Op.call { callee := Callee.value (Operand.func 10), args := #[], argTypes := #[] }, type := 25, pos := "law.go:38", after := #[{ on := 40, ground := Ground.chain }, { on := 40, ground := Ground.guard }], guard := some (40, true) },
  { dst := some 61, op := Op.call { callee := Callee.value (Operand.func 23), args := #[], argTypes := #[] }, type := 25, pos := "law.go:38", after := #[{ on := 41, ground := Ground.chain }, { on := 40, ground := Ground.guard }], guard := some (40, true) },
  { dst := some 62, op := Op.binOp BinOp.eql 25 (Operand.tmp 60) (Operand.tmp 61) 25, type := 4, pos := "law.go:38", after := #[{ on := 41, ground := Ground.data }, { on := 42, ground := Ground.data }, { on := 40, ground := Ground.guard }], guard := some (40, true) },
  { dst := some 63, op := Op.pick (Operand.tmp 59) (Operand.tmp 62) (Operand.const (Value.bool false)), type := 4, pos := "law.go:38", after := #[{ on := 40, ground := Ground.data }, { on := 43, ground := Ground.data }], guard := none },
  { dst := some 64, op := Op.move (Operand.tmp 63), type := 4, pos := "law.go:38", after := #[{ on := 44, ground := Ground.data }, { on := 42, ground := Ground.chain }], guard := none },
  { dst := some 65, op := Op.call { callee := Callee.value (Operand.func 11), args := #[], argTypes := #[] }, type := 27, pos := "law.go:38", after := #[{ on := 45, ground := Ground.chain }, { on := 45, ground := Ground.guard }], guard := some (45, true) },
  { dst := some 66, op := Op.call { callee := Callee.value (Operand.func 24), args := #[], argTypes := #[] }, type := 27, pos := "law.go:38", after := #[{ on := 46, ground := Ground.chain }, { on := 45, ground := Ground.guard }], guard := some (45, true) },
  { dst := some 67, op := Op.binOp BinOp.eql 27 (Operand.tmp 65) (Operand.tmp 66) 27, type := 4, pos := "law.go:38", after := #[{ on := 46, ground := Ground.data }, { on := 47, ground := Ground.data }, { on := 45, ground := Ground.guard }], guard := some (45, true) },
  { dst := some 68, op := Op.pick (Operand.tmp 64) (Operand.tmp 67) (Operand.const (Value.bool false)), type := 4, pos := "law.go:38", after := #[{ on := 45, ground := Ground.data }, { on := 48, ground := Ground.data }], guard := none },
  { dst := some 69, op := Op.move (Operand.tmp 68), type := 4, pos := "law.go:38", after := #[{ on := 49, ground := Ground.data }, { on := 47, ground := Ground.chain }], guard := none },
  { dst := some 70, op := Op.call { callee := Callee.value (Operand.func 25), args := #[], argTypes := #[] }, type := 27, pos := "law.go:38", after := #[{ on := 50, ground := Ground.chain }, { on := 50, ground := Ground.guard }], guard := some (50, true) },
  { dst := some 71, op := Op.call { callee := Callee.value (Operand.func 26), args := #[], argTypes := #[] }, type := 27, pos := "law.go:38", after := #[{ on := 51, ground := Ground.chain }, { on := 50, ground := Ground.guard }], guard := some (50, true) },
  { dst := some 72, op := Op.binOp BinOp.eql 27 (Operand.tmp 70) (Operand.tmp 71) 27, type := 4, pos := "law.go:38", after := #[{ on := 51, ground := Ground.data }, { on := 52, ground := Ground.data }, { on := 50, ground := Ground.guard }], guard := some (50, true) },
  { dst := some 73, op := Op.pick (Operand.tmp 69) (Operand.tmp 72) (Operand.const (Value.bool false)), type := 4, pos := "law.go:38", after := #[{ on := 50, ground := Ground.data }, { on := 53, ground := Ground.data }], guard := none },
  { dst := some 8, op := Op.assign (Operand.tmp 73), type := 4, pos := "law.go:38", after := #[{ on := 54, ground := Ground.data }, { on := 52, ground := Ground.chain }, { on := 0, ground := Ground.phase }, { on := 1, ground := Ground.phase }, { on := 2, ground := Ground.phase }, { on := 3, ground := Ground.phase }, { on := 4, ground := Ground.phase }, { on := 5, ground := Ground.phase }, { on := 6, ground := Ground.phase }, { on := 7, ground := Ground.phase }, { on := 8, ground := Ground.phase }, { on := 9, ground := Ground.phase }, { on := 10, ground := Ground.phase }, { on := 11, ground := Ground.phase }, { on := 12, ground := Ground.phase }, { on := 13, ground := Ground.phase }, { on := 14, ground := Ground.phase }, { on := 15, ground := Ground.phase }, { on := 16, ground := Ground.phase }, { on := 17, ground := Ground.phase }, { on := 18, ground := Ground.phase }, { on := 19, ground := Ground.phase }, { on := 20, ground := Ground.phase }, { on := 21, ground := Ground.phase }, { on := 22, ground := Ground.phase }, { on := 23, ground := Ground.phase }, { on := 24, ground := Ground.phase }, { on := 25, ground := Ground.phase }, { on := 26, ground := Ground.phase }, { on := 27, ground := Ground.phase }, { on := 28, ground := Ground.phase }, { on := 29, ground := Ground.phase }, { on := 30, ground := Ground.phase }, { on := 31, ground := Ground.phase }, { on := 32, ground := Ground.phase }, { on := 33, ground := Ground.phase }, { on := 34, ground := Ground.phase }, { on := 35, ground := Ground.phase }, { on := 36, ground := Ground.phase }, { on := 37, ground := Ground.phase }, { on := 38, ground := Ground.phase }, { on := 39, ground := Ground.phase }, { on := 40, ground := Ground.phase }, { on := 41, ground := Ground.phase }, { on := 42, ground := Ground.phase }, { on := 43, ground := Ground.phase }, { on := 44, ground := Ground.phase }, { on := 45, ground := Ground.phase }, { on := 46, ground := Ground.phase }, { on := 47, ground := Ground.phase }, { on := 48, ground := Ground.phase }, { on := 49, ground := Ground.phase }, { on := 50, ground := Ground.phase }, { on := 51, ground := Ground.phase }, { on := 52, ground := Ground.phase }, { on := 53, ground := Ground.phase }, { on := 54, ground := Ground.phase }], guard := none }]

set_option maxRecDepth 100000 in
set_option maxHeartbeats 8000000 in
theorem calls_key2 (w w1 W0 : World) (A0 A1 : Option Addr) (c0 c1 : Nat) (la lb : List UInt8) (hn0 : la.length ≤ 2000) (hn1 : lb.length ≤ 2000) (hc0 : la.length ≤ c0 ∧ c0 ≤ maxLen) (hc1 : lb.length ≤ c1 ∧ c1 ≤ maxLen) (s : St) (hs : s.Fits) (p : List UInt8) (hp : p.length = 128) (PC S5 S2 : St) (KA : Array Value) (HK : Hid (Kc s p PC S5 S2 KA)) (Q : Exit → Act → World → Prop) (hP : ∀ i v c a w, Q (.panic c) (Act.put a i v) w → Q (.panic c) a w) (hQ : ∀ (u0 u1 u2 u3 u4 u5 u6 u7 u9 u10 u11 u12 u13 u14 u15 u16 u17 u18 u19 u20 u21 u22 u23 u24 u25 u26 u27 u28 u29 u30 u31 u32 u33 u34 u35 u36 u37 u38 u39 u40 u41 u42 u43 u44 u45 u46 u47 u48 u49 u50 u51 u52 u53 u54 u55 u56 u57 u58 u59 u60 u61 u62 u63 u64 u65 u66 u67 u68 u69 u70 u71 u72 u73 : Value) (W : World), Below w1.heap.size w1 W → Q .normal ⟨#[u0, u1, u2, u3, u4, u5, u6, u7, .bool true, u9, u10, u11, u12, u13, u14, u15, u16, u17, u18, u19, u20, u21, u22, u23, u24, u25, u26, u27, u28, u29, u30, u31, u32, u33, u34, u35, u36, u37, u38, u39, u40, u41, u42, u43, u44, u45, u46, u47, u48, u49, u50, u51, u52, u53, u54, u55, u56, u57, u58, u59, u60, u61, u62, u63, u64, u65, u66, u67, u68, u69, u70, u71, u72, u73], []⟩ W) (v2 v3 v4 v5 v8 v9 v10 v11 v12 v13 v14 v15 v16 v17 v18 v19 v20 v21 v22 v23 v24 v25 v26 v27 v28 v29 v31 v32 v33 v35 v36 v38 v39 v40 v41 v42 v43 v44 v45 v46 v47 v48 v49 v50 v51 v52 v53 v54 v55 v56 v57 v58 v59 v60 v61 v62 v63 v64 v65 v66 v67 v68 v69 v70 v71 v72 v73 : Value) (L : Array Bool) (hL : L = ((((((((((((((((((((Array.replicate 56 false).setIfInBounds 0 true).setIfInBounds 2 true).setIfInBounds 6 true).setIfInBounds 7 true).setIfInBounds 1 true).setIfInBounds 3 true).setIfInBounds 4 true).setIfInBounds 5 true).setIfInBounds 8 true).setIfInBounds 9 true).setIfInBounds 10 true).setIfInBounds 11 true).setIfInBounds 12 true).setIfInBounds 16 true).setIfInBounds 13 true).setIfInBounds 14 true).setIfInBounds 15 true).setIfInBounds 17 true).setIfInBounds 18 true)) (HBW0 : Hid (Below w1.heap.size w1 W0)) (SA_0 : Hid (SL W0 A0 la.length la)) (SB_0 : Hid (SL W0 A1 lb.length lb)) (BS_0 : Hid (BX W0 w.heap.size (ucs s.words) 27)) (BP_0 : Hid (BX W0 (w.heap.size + 1) (bcs p) 33)) :
    wpAnyW Try.prog .any ops4 Q (fun _ => false) w1.heap.size 37 L ⟨#[.slice A0 la.length c0, .slice A1 lb.length c1, v2, v3, v4, v5, .pointer (some ⟨w.heap.size, 0, none⟩), .pointer (some ⟨w.heap.size + 1, 0, none⟩), v8, v9, v10, v11, v12, v13, v14, v15, v16, v17, v18, v19, v20, v21, v22, v23, v24, v25, v26, v27, v28, v29, .bool true, v31, v32, v33, .agg (bcs (sum256 la)).toArray, v35, v36, .agg (bcs (sum256 la)).toArray, v38, v39, v40, v41, v42, v43, v44, v45, v46, v47, v48, v49, v50, v51, v52, v53, v54, v55, v56, v57, v58, v59, v60, v61, v62, v63, v64, v65, v66, v67, v68, v69, v70, v71, v72, v73], []⟩ W0 := by
  have HLA := Lib.hid (show la.length ≤ 1000000000 by omega)
  have HLB := Lib.hid (show lb.length ≤ 1000000000 by omega)
  have HLL := Lib.hid (show (la ++ lb).length ≤ 1000000000 by rw [List.length_append]; omega)
  have HCA := Lib.hid hc0
  have HCB := Lib.hid hc1
  have HPL := Lib.hid hp
  have E22 := Lib.hid (eq22 (sum512 (la ++ lb)) (sum512_len _))
  have E35 := Lib.hid (eq35 (sum256 la) (sum256_len la))
  have HPN := Lib.hid hP
  have HQN := Lib.hid hQ
  clear hP hQ hc0 hc1
  have CP1 := Lib.hid HK.out.cp1
  have CP2 := Lib.hid HK.out.cp2
  have E27 := Lib.hid HK.out.e27
  have E25 := Lib.hid HK.out.e25
  have CK1 := Lib.hid HK.out.ck1
  have CK2 := Lib.hid HK.out.ck2
  have CS1 := Lib.hid HK.out.cs1
  have CS2 := Lib.hid HK.out.cs2
  have E27a := Lib.hid HK.out.e27a
  have CT1 := Lib.hid HK.out.ct1
  have CT2 := Lib.hid HK.out.ct2
  have E27b := Lib.hid HK.out.e27b
  clear hp hs
  subst hL
  refine takeAE (i := 19) (oi := { dst := some 38, op := Op.binOp BinOp.eql 35 (Operand.tmp 34) (Operand.tmp 37) 35, type := 4, pos := "law.go:38", after := #[{ on := 15, ground := Ground.data }, { on := 18, ground := Ground.data }, { on := 11, ground := Ground.guard }], guard := some (11, true) }) rfl (by kernel_rfl) (by kernel_rfl) (by kernel_rfl) (fun v => HPN.out _ v) (by rfl) ?_
  apply Exists.intro
  refine ⟨fun w' => ?_, ?_⟩
  · have e := E35.out w'; go_simp <;> with_reducible rfl
  simp only [Act.put, List.setIfInBounds_toArray, List.set_cons_zero, List.set_cons_succ]
  refine takeAE (i := 20) (oi := { dst := some 39, op := Op.pick (Operand.tmp 30) (Operand.tmp 38) (Operand.const (Value.bool false)), type := 4, pos := "law.go:38", after := #[{ on := 11, ground := Ground.data }, { on := 19, ground := Ground.data }], guard := none }) rfl (by kernel_rfl) (by kernel_rfl) (by kernel_rfl) (fun v => HPN.out _ v) (by rfl) ?_
  apply Exists.intro
  refine ⟨fun w' => ?_, ?_⟩
  · go_simp <;> with_reducible rfl
  simp only [Act.put, List.setIfInBounds_toArray, List.set_cons_zero, List.set_cons_succ]
  refine takeAE (i := 21) (oi := { dst := some 40, op := Op.move (Operand.tmp 39), type := 4, pos := "law.go:38", after := #[{ on := 20, ground := Ground.data }, { on := 18, ground := Ground.chain }], guard := none }) rfl (by kernel_rfl) (by kernel_rfl) (by kernel_rfl) (fun v => HPN.out _ v) (by rfl) ?_
  apply Exists.intro
  refine ⟨fun w' => ?_, ?_⟩
  · go_simp <;> with_reducible rfl
  simp only [Act.put, List.setIfInBounds_toArray, List.set_cons_zero, List.set_cons_succ]
  refine takeAE (i := 22) (oi := { dst := some 41, op := Op.move (Operand.tmp 1), type := 30, pos := "law.go:38", after := #[{ on := 21, ground := Ground.guard }], guard := some (21, true) }) rfl (by kernel_rfl) (by kernel_rfl) (by kernel_rfl) (fun v => HPN.out _ v) (by rfl) ?_
  apply Exists.intro
  refine ⟨fun w' => ?_, ?_⟩
  · go_simp <;> with_reducible rfl
  simp only [Act.put, List.setIfInBounds_toArray, List.set_cons_zero, List.set_cons_succ]
  refine takeAE (i := 26) (oi := { dst := some 45, op := Op.move (Operand.tmp 1), type := 30, pos := "law.go:38", after := #[{ on := 21, ground := Ground.guard }], guard := some (21, true) }) rfl (by kernel_rfl) (by kernel_rfl) (by kernel_rfl) (fun v => HPN.out _ v) (by rfl) ?_
  apply Exists.intro
  refine ⟨fun w' => ?_, ?_⟩
  · go_simp <;> with_reducible rfl
  simp only [Act.put, List.setIfInBounds_toArray, List.set_cons_zero, List.set_cons_succ]
  refine callW (i := 23) (oi := { dst := some 42, op := Op.call { callee := Callee.value (Operand.func 16), args := #[Operand.tmp 41], argTypes := #[30] }, type := 30, pos := "law.go:38", after := #[{ on := 22, ground := Ground.data }, { on := 21, ground := Ground.chain }, { on := 21, ground := Ground.guard }], guard := some (21, true) }) rfl (by kernel_rfl) (by rfl) ?_ ((own_any lb W0 _ A1 lb.length c1 SB_0.out (fun b h => h) HLB.out).mono ?_)
  · go_simp
  rintro eW501 W501 ⟨vW501, rfl, hoW501, hbW501⟩
  obtain ⟨AOBW501, cOBW501, rfl, hcW501, hmW501, hsW501⟩ := hoW501.src
  refine ⟨_, rfl, fun _ => hbW501.mono HBW0.out.size, ?_⟩
  have HBW501 := Lib.hid (HBW0.out.trans (hbW501.mono HBW0.out.size))
  have SA_W501 := Lib.hid (SA_0.out.keep hbW501)
  have SB_W501 := Lib.hid (SB_0.out.keep hbW501)
  have BS_W501 := Lib.hid (BS_0.out.keep hbW501)
  have BP_W501 := Lib.hid (BP_0.out.keep hbW501)
  have OB_W501 := Lib.hid (SL.own hsW501)
  have OBc_W501 := Lib.hid (And.intro hcW501 hmW501)
  clear hbW501 hoW501 hsW501 hcW501 hmW501
  simp only [Act.put, List.setIfInBounds_toArray, List.set_cons_zero, List.set_cons_succ]
  refine callW (i := 24) (oi := { dst := some 43, op := Op.call { callee := Callee.value (Operand.func 15), args := #[Operand.tmp 42], argTypes := #[30] }, type := 30, pos := "law.go:38", after := #[{ on := 23, ground := Ground.data }, { on := 23, ground := Ground.chain }, { on := 21, ground := Ground.guard }], guard := some (21, true) }) rfl (by kernel_rfl) (by rfl) ?_ ((pad_any lb W501 _ AOBW501 lb.length cOBW501 OB_W501.out (fun b h => h) HLB.out OBc_W501.out.1 OBc_W501.out.2).mono ?_)
  · go_simp
  rintro eW502 W502 ⟨vW502, rfl, hoW502, hbW502⟩
  obtain ⟨AOPW502, cOPW502, rfl, hcW502, hmW502, hsW502⟩ := hoW502.src
  refine ⟨_, rfl, fun _ => hbW502.mono HBW501.out.size, ?_⟩
  have HBW502 := Lib.hid (HBW501.out.trans (hbW502.mono HBW501.out.size))
  have SA_W502 := Lib.hid (SA_W501.out.keep hbW502)
  have SB_W502 := Lib.hid (SB_W501.out.keep hbW502)
  have BS_W502 := Lib.hid (BS_W501.out.keep hbW502)
  have BP_W502 := Lib.hid (BP_W501.out.keep hbW502)
  have OB_W502 := Lib.hid (OB_W501.out.keep hbW502)
  have OP_W502 := Lib.hid (SL.own hsW502)
  have OPc_W502 := Lib.hid (And.intro hcW502 hmW502)
  clear hbW502 hoW502 hsW502 hcW502 hmW502
  simp only [Act.put, List.setIfInBounds_toArray, List.set_cons_zero, List.set_cons_succ]
  refine wpAnyW_raise HBW502.out.size _ _ _ _ ?_
  refine takeW (i := 25) (oi := { dst := some 44, op := Op.convert 30 9 (Operand.tmp 43), type := 9, pos := "law.go:38", after := #[{ on := 24, ground := Ground.data }, { on := 21, ground := Ground.guard }], guard := some (21, true) }) (.string ⟨(padded lb).toArray⟩) rfl (by kernel_rfl) (by kernel_rfl) (by kernel_rfl) (by kernel_rfl) (HPN.out _ _) (by rfl) (fun w' hk => exec_convert rfl (conv_src (OP_W502.out.below' hk (fun b hb => hb)))) ?_
  simp only [Act.put, List.setIfInBounds_toArray, List.set_cons_zero, List.set_cons_succ]
  have HBold := HBW502
  clear HBW502
  have HBW502 : Hid (Below W502.heap.size W502 W502) := Lib.hid (Below.refl _ _)
  refine callW (i := 27) (oi := { dst := some 46, op := Op.call { callee := Callee.value (Operand.func 20), args := #[Operand.tmp 45], argTypes := #[30] }, type := 30, pos := "law.go:38", after := #[{ on := 26, ground := Ground.data }, { on := 24, ground := Ground.chain }, { on := 21, ground := Ground.guard }], guard := some (21, true) }) rfl (by kernel_rfl) (by rfl) ?_ ((rpad_any lb W502 _ A1 lb.length c1 SB_W502.out (fun b h => h) HLB.out).mono ?_)
  · go_simp
  rintro eW503 W503 ⟨vW503, rfl, hoW503, hbW503⟩
  obtain ⟨AOPW503, cOPW503, rfl, hcW503, hmW503, hsW503⟩ := hoW503.src
  refine ⟨_, rfl, fun _ => hbW503.mono HBW502.out.size, ?_⟩
  have HBW503 := Lib.hid (HBW502.out.trans (hbW503.mono HBW502.out.size))
  have SB_W503 := Lib.hid (SB_W502.out.keep hbW503)
  have BS_W503 := Lib.hid (BS_W502.out.keep hbW503)
  have BP_W503 := Lib.hid (BP_W502.out.keep hbW503)
  have OP_W503 := Lib.hid (SL.own hsW503)
  have OPc_W503 := Lib.hid (And.intro hcW503 hmW503)
  clear hbW503 hoW503 hsW503 hcW503 hmW503
  simp only [Act.put, List.setIfInBounds_toArray, List.set_cons_zero, List.set_cons_succ]
  refine wpAnyW_raise HBW503.out.size _ _ _ _ ?_
  refine takeW (i := 28) (oi := { dst := some 47, op := Op.convert 30 9 (Operand.tmp 46), type := 9, pos := "law.go:38", after := #[{ on := 27, ground := Ground.data }, { on := 21, ground := Ground.guard }], guard := some (21, true) }) (.string ⟨(padded lb).toArray⟩) rfl (by kernel_rfl) (by kernel_rfl) (by kernel_rfl) (by kernel_rfl) (HPN.out _ _) (by rfl) (fun w' hk => exec_convert rfl (conv_src (OP_W503.out.below' hk (fun b hb => hb)))) ?_
  simp only [Act.put, List.setIfInBounds_toArray, List.set_cons_zero, List.set_cons_succ]
  have HBold2 := HBW503
  clear HBW503
  have HBW503 : Hid (Below W503.heap.size W503 W503) := Lib.hid (Below.refl _ _)
  generalize padded lb = PL at *
  refine takeAE (i := 29) (oi := { dst := some 48, op := Op.binOp BinOp.eql 9 (Operand.tmp 44) (Operand.tmp 47) 9, type := 4, pos := "law.go:38", after := #[{ on := 25, ground := Ground.data }, { on := 28, ground := Ground.data }, { on := 21, ground := Ground.guard }], guard := some (21, true) }) rfl (by kernel_rfl) (by kernel_rfl) (by kernel_rfl) (fun v => HPN.out _ v) (by rfl) ?_
  apply Exists.intro
  refine ⟨fun w' => ?_, ?_⟩
  · go_simp <;> with_reducible rfl
  simp only [Act.put, List.setIfInBounds_toArray, List.set_cons_zero, List.set_cons_succ]
  refine takeAE (i := 30) (oi := { dst := some 49, op := Op.pick (Operand.tmp 40) (Operand.tmp 48) (Operand.const (Value.bool false)), type := 4, pos := "law.go:38", after := #[{ on := 21, ground := Ground.data }, { on := 29, ground := Ground.data }], guard := none }) rfl (by kernel_rfl) (by kernel_rfl) (by kernel_rfl) (fun v => HPN.out _ v) (by rfl) ?_
  apply Exists.intro
  refine ⟨fun w' => ?_, ?_⟩
  · go_simp <;> with_reducible rfl
  simp only [Act.put, List.setIfInBounds_toArray, List.set_cons_zero, List.set_cons_succ]
  refine takeAE (i := 31) (oi := { dst := some 50, op := Op.move (Operand.tmp 49), type := 4, pos := "law.go:38", after := #[{ on := 30, ground := Ground.data }, { on := 27, ground := Ground.chain }], guard := none }) rfl (by kernel_rfl) (by kernel_rfl) (by kernel_rfl) (fun v => HPN.out _ v) (by rfl) ?_
  apply Exists.intro
  refine ⟨fun w' => ?_, ?_⟩
  · go_simp <;> with_reducible rfl
  simp only [Act.put, List.setIfInBounds_toArray, List.set_cons_zero, List.set_cons_succ]
  refine takeW (i := 32) (oi := { dst := some 51, op := Op.load 27 (Operand.tmp 6), type := 27, pos := "law.go:38", after := #[{ on := 31, ground := Ground.guard }], guard := some (31, true) }) (.agg (ucs s.words).toArray) rfl (by kernel_rfl) (by kernel_rfl) (by kernel_rfl) (by kernel_rfl) (HPN.out _ _) (by rfl) (fun w' hk => exec_load 27 (.tmp 6) rfl w.heap.size 0 rfl (ucs s.words) ((BS_W503.out.keep hk).cells) _ under27 rfl (sz27l' s)) ?_
  simp only [Act.put, List.setIfInBounds_toArray, List.set_cons_zero, List.set_cons_succ]
  refine takeW (i := 33) (oi := { dst := some 52, op := Op.load 33 (Operand.tmp 7), type := 33, pos := "law.go:38", after := #[{ on := 31, ground := Ground.guard }], guard := some (31, true) }) (.agg (bcs p).toArray) rfl (by kernel_rfl) (by kernel_rfl) (by kernel_rfl) (by kernel_rfl) (HPN.out _ _) (by rfl) (fun w' hk => exec_load 33 (.tmp 7) rfl (w.heap.size + 1) 0 rfl (bcs p) ((BP_W503.out.keep hk).cells) _ under33 rfl (sz33l p HPL.out)) ?_
  simp only [Act.put, List.setIfInBounds_toArray, List.set_cons_zero, List.set_cons_succ]
  refine takeW (i := 35) (oi := { dst := some 54, op := Op.load 27 (Operand.tmp 6), type := 27, pos := "law.go:38", after := #[{ on := 31, ground := Ground.guard }], guard := some (31, true) }) (.agg (ucs s.words).toArray) rfl (by kernel_rfl) (by kernel_rfl) (by kernel_rfl) (by kernel_rfl) (HPN.out _ _) (by rfl) (fun w' hk => exec_load 27 (.tmp 6) rfl w.heap.size 0 rfl (ucs s.words) ((BS_W503.out.keep hk).cells) _ under27 rfl (sz27l' s)) ?_
  simp only [Act.put, List.setIfInBounds_toArray, List.set_cons_zero, List.set_cons_succ]
  refine takeW (i := 36) (oi := { dst := some 55, op := Op.load 33 (Operand.tmp 7), type := 33, pos := "law.go:38", after := #[{ on := 31, ground := Ground.guard }], guard := some (31, true) }) (.agg (bcs p).toArray) rfl (by kernel_rfl) (by kernel_rfl) (by kernel_rfl) (by kernel_rfl) (HPN.out _ _) (by rfl) (fun w' hk => exec_load 33 (.tmp 7) rfl (w.heap.size + 1) 0 rfl (bcs p) ((BP_W503.out.keep hk).cells) _ under33 rfl (sz33l p HPL.out)) ?_
  simp only [Act.put, List.setIfInBounds_toArray, List.set_cons_zero, List.set_cons_succ]
  refine callW (i := 34) (oi := { dst := some 53, op := Op.call { callee := Callee.value (Operand.func 21), args := #[Operand.tmp 51, Operand.tmp 52], argTypes := #[27, 33] }, type := 27, pos := "law.go:38", after := #[{ on := 32, ground := Ground.data }, { on := 33, ground := Ground.data }, { on := 31, ground := Ground.chain }, { on := 31, ground := Ground.guard }], guard := some (31, true) }) rfl (by kernel_rfl) (by rfl) ?_ ((CP1.out W503).mono ?_)
  · go_simp
  rintro eW504 W504 ⟨rfl, hbW504⟩
  refine ⟨_, rfl, fun _ => hbW504.mono HBW503.out.size, ?_⟩
  have HBW504 := Lib.hid (HBW503.out.trans (hbW504.mono HBW503.out.size))
  clear hbW504
  simp only [Act.put, List.setIfInBounds_toArray, List.set_cons_zero, List.set_cons_succ]
  refine callW (i := 37) (oi := { dst := some 56, op := Op.call { callee := Callee.value (Operand.func 22), args := #[Operand.tmp 54, Operand.tmp 55], argTypes := #[27, 33] }, type := 27, pos := "law.go:38", after := #[{ on := 35, ground := Ground.data }, { on := 36, ground := Ground.data }, { on := 34, ground := Ground.chain }, { on := 31, ground := Ground.guard }], guard := some (31, true) }) rfl (by kernel_rfl) (by rfl) ?_ ((CP2.out W504).mono ?_)
  · go_simp
  rintro eW505 W505 ⟨rfl, hbW505⟩
  refine ⟨_, rfl, fun _ => hbW505.mono HBW504.out.size, ?_⟩
  have HBW505 := Lib.hid (HBW504.out.trans (hbW505.mono HBW504.out.size))
  clear hbW505
  simp only [Act.put, List.setIfInBounds_toArray, List.set_cons_zero, List.set_cons_succ]
  refine takeAE (i := 38) (oi := { dst := some 57, op := Op.binOp BinOp.eql 27 (Operand.tmp 53) (Operand.tmp 56) 27, type := 4, pos := "law.go:38", after := #[{ on := 34, ground := Ground.data }, { on := 37, ground := Ground.data }, { on := 31, ground := Ground.guard }], guard := some (31, true) }) rfl (by kernel_rfl) (by kernel_rfl) (by kernel_rfl) (fun v => HPN.out _ v) (by rfl) ?_
  apply Exists.intro
  refine ⟨fun w' => ?_, ?_⟩
  · have e := E27.out w'; go_simp <;> with_reducible rfl
  simp only [Act.put, List.setIfInBounds_toArray, List.set_cons_zero, List.set_cons_succ]
  refine takeAE (i := 39) (oi := { dst := some 58, op := Op.pick (Operand.tmp 50) (Operand.tmp 57) (Operand.const (Value.bool false)), type := 4, pos := "law.go:38", after := #[{ on := 31, ground := Ground.data }, { on := 38, ground := Ground.data }], guard := none }) rfl (by kernel_rfl) (by kernel_rfl) (by kernel_rfl) (fun v => HPN.out _ v) (by rfl) ?_
  apply Exists.intro
  refine ⟨fun w' => ?_, ?_⟩
  · go_simp <;> with_reducible rfl
  simp only [Act.put, List.setIfInBounds_toArray, List.set_cons_zero, List.set_cons_succ]
  refine takeAE (i := 40) (oi := { dst := some 59, op := Op.move (Operand.tmp 58), type := 4, pos := "law.go:38", after := #[{ on := 39, ground := Ground.data }, { on := 37, ground := Ground.chain }], guard := none }) rfl (by kernel_rfl) (by kernel_rfl) (by kernel_rfl) (fun v => HPN.out _ v) (by rfl) ?_
  apply Exists.intro
  refine ⟨fun w' => ?_, ?_⟩
  · go_simp <;> with_reducible rfl
  simp only [Act.put, List.setIfInBounds_toArray, List.set_cons_zero, List.set_cons_succ]
  refine callW (i := 41) (oi := { dst := some 60, op := Op.call { callee := Callee.value (Operand.func 10), args := #[], argTypes := #[] }, type := 25, pos := "law.go:38", after := #[{ on := 40, ground := Ground.chain }, { on := 40, ground := Ground.guard }], guard := some (40, true) }) rfl (by kernel_rfl) (by rfl) ?_ ((CK1.out W505).mono ?_)
  · go_simp
  rintro eW506 W506 ⟨rfl, hbW506⟩
  refine ⟨_, rfl, fun _ => hbW506.mono HBW505.out.size, ?_⟩
  have HBW506 := Lib.hid (HBW505.out.trans (hbW506.mono HBW505.out.size))
  clear hbW506
  simp only [Act.put, List.setIfInBounds_toArray, List.set_cons_zero, List.set_cons_succ]
  refine callW (i := 42) (oi := { dst := some 61, op := Op.call { callee := Callee.value (Operand.func 23), args := #[], argTypes := #[] }, type := 25, pos := "law.go:38", after := #[{ on := 41, ground := Ground.chain }, { on := 40, ground := Ground.guard }], guard := some (40, true) }) rfl (by kernel_rfl) (by rfl) ?_ ((CK2.out W506).mono ?_)
  · go_simp
  rintro eW507 W507 ⟨rfl, hbW507⟩
  refine ⟨_, rfl, fun _ => hbW507.mono HBW506.out.size, ?_⟩
  have HBW507 := Lib.hid (HBW506.out.trans (hbW507.mono HBW506.out.size))
  clear hbW507
  simp only [Act.put, List.setIfInBounds_toArray, List.set_cons_zero, List.set_cons_succ]
  refine takeAE (i := 43) (oi := { dst := some 62, op := Op.binOp BinOp.eql 25 (Operand.tmp 60) (Operand.tmp 61) 25, type := 4, pos := "law.go:38", after := #[{ on := 41, ground := Ground.data }, { on := 42, ground := Ground.data }, { on := 40, ground := Ground.guard }], guard := some (40, true) }) rfl (by kernel_rfl) (by kernel_rfl) (by kernel_rfl) (fun v => HPN.out _ v) (by rfl) ?_
  apply Exists.intro
  refine ⟨fun w' => ?_, ?_⟩
  · have e := E25.out w'; go_simp <;> with_reducible rfl
  simp only [Act.put, List.setIfInBounds_toArray, List.set_cons_zero, List.set_cons_succ]
  refine takeAE (i := 44) (oi := { dst := some 63, op := Op.pick (Operand.tmp 59) (Operand.tmp 62) (Operand.const (Value.bool false)), type := 4, pos := "law.go:38", after := #[{ on := 40, ground := Ground.data }, { on := 43, ground := Ground.data }], guard := none }) rfl (by kernel_rfl) (by kernel_rfl) (by kernel_rfl) (fun v => HPN.out _ v) (by rfl) ?_
  apply Exists.intro
  refine ⟨fun w' => ?_, ?_⟩
  · go_simp <;> with_reducible rfl
  simp only [Act.put, List.setIfInBounds_toArray, List.set_cons_zero, List.set_cons_succ]
  refine takeAE (i := 45) (oi := { dst := some 64, op := Op.move (Operand.tmp 63), type := 4, pos := "law.go:38", after := #[{ on := 44, ground := Ground.data }, { on := 42, ground := Ground.chain }], guard := none }) rfl (by kernel_rfl) (by kernel_rfl) (by kernel_rfl) (fun v => HPN.out _ v) (by rfl) ?_
  apply Exists.intro
  refine ⟨fun w' => ?_, ?_⟩
  · go_simp <;> with_reducible rfl
  simp only [Act.put, List.setIfInBounds_toArray, List.set_cons_zero, List.set_cons_succ]
  refine callW (i := 46) (oi := { dst := some 65, op := Op.call { callee := Callee.value (Operand.func 11), args := #[], argTypes := #[] }, type := 27, pos := "law.go:38", after := #[{ on := 45, ground := Ground.chain }, { on := 45, ground := Ground.guard }], guard := some (45, true) }) rfl (by kernel_rfl) (by rfl) ?_ ((CS1.out W507).mono ?_)
  · go_simp
  rintro eW508 W508 ⟨rfl, hbW508⟩
  refine ⟨_, rfl, fun _ => hbW508.mono HBW507.out.size, ?_⟩
  have HBW508 := Lib.hid (HBW507.out.trans (hbW508.mono HBW507.out.size))
  clear hbW508
  simp only [Act.put, List.setIfInBounds_toArray, List.set_cons_zero, List.set_cons_succ]
  refine callW (i := 47) (oi := { dst := some 66, op := Op.call { callee := Callee.value (Operand.func 24), args := #[], argTypes := #[] }, type := 27, pos := "law.go:38", after := #[{ on := 46, ground := Ground.chain }, { on := 45, ground := Ground.guard }], guard := some (45, true) }) rfl (by kernel_rfl) (by rfl) ?_ ((CS2.out W508).mono ?_)
  · go_simp
  rintro eW509 W509 ⟨rfl, hbW509⟩
  refine ⟨_, rfl, fun _ => hbW509.mono HBW508.out.size, ?_⟩
  have HBW509 := Lib.hid (HBW508.out.trans (hbW509.mono HBW508.out.size))
  clear hbW509
  simp only [Act.put, List.setIfInBounds_toArray, List.set_cons_zero, List.set_cons_succ]
  refine takeAE (i := 48) (oi := { dst := some 67, op := Op.binOp BinOp.eql 27 (Operand.tmp 65) (Operand.tmp 66) 27, type := 4, pos := "law.go:38", after := #[{ on := 46, ground := Ground.data }, { on := 47, ground := Ground.data }, { on := 45, ground := Ground.guard }], guard := some (45, true) }) rfl (by kernel_rfl) (by kernel_rfl) (by kernel_rfl) (fun v => HPN.out _ v) (by rfl) ?_
  apply Exists.intro
  refine ⟨fun w' => ?_, ?_⟩
  · have e := E27a.out w'; go_simp <;> with_reducible rfl
  simp only [Act.put, List.setIfInBounds_toArray, List.set_cons_zero, List.set_cons_succ]
  refine takeAE (i := 49) (oi := { dst := some 68, op := Op.pick (Operand.tmp 64) (Operand.tmp 67) (Operand.const (Value.bool false)), type := 4, pos := "law.go:38", after := #[{ on := 45, ground := Ground.data }, { on := 48, ground := Ground.data }], guard := none }) rfl (by kernel_rfl) (by kernel_rfl) (by kernel_rfl) (fun v => HPN.out _ v) (by rfl) ?_
  apply Exists.intro
  refine ⟨fun w' => ?_, ?_⟩
  · go_simp <;> with_reducible rfl
  simp only [Act.put, List.setIfInBounds_toArray, List.set_cons_zero, List.set_cons_succ]
  refine takeAE (i := 50) (oi := { dst := some 69, op := Op.move (Operand.tmp 68), type := 4, pos := "law.go:38", after := #[{ on := 49, ground := Ground.data }, { on := 47, ground := Ground.chain }], guard := none }) rfl (by kernel_rfl) (by kernel_rfl) (by kernel_rfl) (fun v => HPN.out _ v) (by rfl) ?_
  apply Exists.intro
  refine ⟨fun w' => ?_, ?_⟩
  · go_simp <;> with_reducible rfl
  simp only [Act.put, List.setIfInBounds_toArray, List.set_cons_zero, List.set_cons_succ]
  refine callW (i := 51) (oi := { dst := some 70, op := Op.call { callee := Callee.value (Operand.func 25), args := #[], argTypes := #[] }, type := 27, pos := "law.go:38", after := #[{ on := 50, ground := Ground.chain }, { on := 50, ground := Ground.guard }], guard := some (50, true) }) rfl (by kernel_rfl) (by rfl) ?_ ((CT1.out W509).mono ?_)
  · go_simp
  rintro eW510 W510 ⟨rfl, hbW510⟩
  refine ⟨_, rfl, fun _ => hbW510.mono HBW509.out.size, ?_⟩
  have HBW510 := Lib.hid (HBW509.out.trans (hbW510.mono HBW509.out.size))
  clear hbW510
  simp only [Act.put, List.setIfInBounds_toArray, List.set_cons_zero, List.set_cons_succ]
  refine callW (i := 52) (oi := { dst := some 71, op := Op.call { callee := Callee.value (Operand.func 26), args := #[], argTypes := #[] }, type := 27, pos := "law.go:38", after := #[{ on := 51, ground := Ground.chain }, { on := 50, ground := Ground.guard }], guard := some (50, true) }) rfl (by kernel_rfl) (by rfl) ?_ ((CT2.out W510).mono ?_)
  · go_simp
  rintro eW511 W511 ⟨rfl, hbW511⟩
  refine ⟨_, rfl, fun _ => hbW511.mono HBW510.out.size, ?_⟩
  have HBW511 := Lib.hid (HBW510.out.trans (hbW511.mono HBW510.out.size))
  clear hbW511
  simp only [Act.put, List.setIfInBounds_toArray, List.set_cons_zero, List.set_cons_succ]
  refine takeAE (i := 53) (oi := { dst := some 72, op := Op.binOp BinOp.eql 27 (Operand.tmp 70) (Operand.tmp 71) 27, type := 4, pos := "law.go:38", after := #[{ on := 51, ground := Ground.data }, { on := 52, ground := Ground.data }, { on := 50, ground := Ground.guard }], guard := some (50, true) }) rfl (by kernel_rfl) (by kernel_rfl) (by kernel_rfl) (fun v => HPN.out _ v) (by rfl) ?_
  apply Exists.intro
  refine ⟨fun w' => ?_, ?_⟩
  · have e := E27b.out w'; go_simp <;> with_reducible rfl
  simp only [Act.put, List.setIfInBounds_toArray, List.set_cons_zero, List.set_cons_succ]
  refine takeAE (i := 54) (oi := { dst := some 73, op := Op.pick (Operand.tmp 69) (Operand.tmp 72) (Operand.const (Value.bool false)), type := 4, pos := "law.go:38", after := #[{ on := 50, ground := Ground.data }, { on := 53, ground := Ground.data }], guard := none }) rfl (by kernel_rfl) (by kernel_rfl) (by kernel_rfl) (fun v => HPN.out _ v) (by rfl) ?_
  apply Exists.intro
  refine ⟨fun w' => ?_, ?_⟩
  · go_simp <;> with_reducible rfl
  simp only [Act.put, List.setIfInBounds_toArray, List.set_cons_zero, List.set_cons_succ]
  refine takeAE (i := 55) (oi := { dst := some 8, op := Op.assign (Operand.tmp 73), type := 4, pos := "law.go:38", after := #[{ on := 54, ground := Ground.data }, { on := 52, ground := Ground.chain }, { on := 0, ground := Ground.phase }, { on := 1, ground := Ground.phase }, { on := 2, ground := Ground.phase }, { on := 3, ground := Ground.phase }, { on := 4, ground := Ground.phase }, { on := 5, ground := Ground.phase }, { on := 6, ground := Ground.phase }, { on := 7, ground := Ground.phase }, { on := 8, ground := Ground.phase }, { on := 9, ground := Ground.phase }, { on := 10, ground := Ground.phase }, { on := 11, ground := Ground.phase }, { on := 12, ground := Ground.phase }, { on := 13, ground := Ground.phase }, { on := 14, ground := Ground.phase }, { on := 15, ground := Ground.phase }, { on := 16, ground := Ground.phase }, { on := 17, ground := Ground.phase }, { on := 18, ground := Ground.phase }, { on := 19, ground := Ground.phase }, { on := 20, ground := Ground.phase }, { on := 21, ground := Ground.phase }, { on := 22, ground := Ground.phase }, { on := 23, ground := Ground.phase }, { on := 24, ground := Ground.phase }, { on := 25, ground := Ground.phase }, { on := 26, ground := Ground.phase }, { on := 27, ground := Ground.phase }, { on := 28, ground := Ground.phase }, { on := 29, ground := Ground.phase }, { on := 30, ground := Ground.phase }, { on := 31, ground := Ground.phase }, { on := 32, ground := Ground.phase }, { on := 33, ground := Ground.phase }, { on := 34, ground := Ground.phase }, { on := 35, ground := Ground.phase }, { on := 36, ground := Ground.phase }, { on := 37, ground := Ground.phase }, { on := 38, ground := Ground.phase }, { on := 39, ground := Ground.phase }, { on := 40, ground := Ground.phase }, { on := 41, ground := Ground.phase }, { on := 42, ground := Ground.phase }, { on := 43, ground := Ground.phase }, { on := 44, ground := Ground.phase }, { on := 45, ground := Ground.phase }, { on := 46, ground := Ground.phase }, { on := 47, ground := Ground.phase }, { on := 48, ground := Ground.phase }, { on := 49, ground := Ground.phase }, { on := 50, ground := Ground.phase }, { on := 51, ground := Ground.phase }, { on := 52, ground := Ground.phase }, { on := 53, ground := Ground.phase }, { on := 54, ground := Ground.phase }], guard := none }) rfl (by kernel_rfl) (by kernel_rfl) (by kernel_rfl) (fun v => HPN.out _ v) (by rfl) ?_
  apply Exists.intro
  refine ⟨fun w' => ?_, ?_⟩
  · go_simp <;> with_reducible rfl
  simp only [Act.put, List.setIfInBounds_toArray, List.set_cons_zero, List.set_cons_succ]
  refine doneW (by kernel_rfl) ?_ _
  have HF1 := Lib.hid (HBold.out.trans (HBold2.out.mono HBold.out.size))
  exact HQN.out _ _ _ _ _ _ _ _ _ _ _ _ _ _ _ _ _ _ _ _ _ _ _ _ _ _ _ _ _ _ _ _ _ _ _ _ _ _ _ _ _ _ _ _ _ _ _ _ _ _ _ _ _ _ _ _ _ _ _ _ _ _ _ _ _ _ _ _ _ _ _ _ _ _ (HF1.out.trans (HBW511.out.mono HF1.out.size))
end Go.Proofs.Ytphalfpmgbmcaaa
