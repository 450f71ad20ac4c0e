/- It is proved that OctetCalls returns true for all bytes and numbers: what the encoders return is what the document says. Conditions: none. -/
import Derived.Test.YtbcalhhfcnbppaaRows
import Derived.Test.YtbcalhhfcnbppaaH
import Derived.Test.YtbcalhhfcnbppaaI
import Derived.Test.YtbcalhhfcnbppaaO
import Derived.ProofKit
import Derived.OpenShut
import Derived.ChangeOld
namespace Go.Proofs.Ytbcalhhfcnbppaa.octetCalls
open Go.ChangeShapes Go.WideShapes Go.ChangeAt Go.RowKit
set_option linter.unusedVariables false
set_option linter.unusedSimpArgs false

theorem own : ownKnob Try.prog.godebug = none := by kernel_rfl
theorem laidOut : laidOutB Try.prog = true := by kernel_rfl

set_option maxHeartbeats 4000000 in
theorem walkB (w : World) (A0 A1' : Option Addr) (n0 c0 n1 c1' : Nat) (l p : List UInt8) (n : Nat) (size : Int) (hb : Src w (· < w.heap.size) A0 n0 (bcs l)) (hp : Src w (· < w.heap.size) A1' n1 (bcs p))
    (hn0 : n0 ≤ 3000) (hn1 : n1 ≤ 3000) (hn : n < 18446744073709551616) :
    Calls Try.prog 4 #[.slice A0 n0 c0, .slice A1' n1 c1', .int .u64 n, .int .i64 size] w fun e w' => e = .returned (.bool true) ∧ Below w.heap.size w w' := by
  have hl := src_len hb
  have hlp := src_len hp
  subst hl
  subst hlp
  go_enter Try.func4, Try.ntmps4
  go_wp2_with fail
  refine (lives_any w).mono ?_
  rintro e1 w1 ⟨rfl, hb1⟩
  have hsb0 := (hb.weak (S' := (· < w.heap.size)) (fun _ h => h)).below (S' := (· < w.heap.size)) hb1 (fun _ h => h)
  have hsp0 := (hp.weak (S' := (· < w.heap.size)) (fun _ h => h)).below (S' := (· < w.heap.size)) hb1 (fun _ h => h)
  have HB1 := Lib.hid hb1
  have hz1 := hb1.size
  clear hb1 hb hp
  go_wp2_with fail
  refine anyStart (fun _ => False) (by kernel_rfl) ?_
  obtain ⟨w2, hw2⟩ : ∃ w2, w2 = w1.drew := ⟨_, rfl⟩
  have hsb : Src w2 (· < w.heap.size) A0 l.length (bcs l) := by rw [hw2]; exact ⟨hsb0.len, hsb0.lies⟩
  have hsp : Src w2 (· < w.heap.size) A1' p.length (bcs p) := by rw [hw2]; exact ⟨hsp0.len, hsp0.lies⟩
  have hw : ∀ b, b < w.heap.size → b < w2.heap.size := fun b hb => by rw [hw2]; exact Nat.lt_of_lt_of_le hb hz1
  have HB2 : Below w.heap.size w w2 := by rw [hw2]; exact HB1.out.drew
  rw [← hw2]
  clear hsb0 hsp0 HB1 hz1 hw2
  refine anyTake (i := 0) (oi := { dst := some 19, op := Op.move (Operand.tmp 0), type := 24, pos := "law.go:42", after := #[], guard := none }) (v := ?v5_0) rfl (by kernel_rfl) (by kernel_rfl) (by kernel_rfl) (fun _ _ _ h => h) (by rfl) ?t5_0 ?r5_0
  case t5_0 => (intro w' hk; go_simp) <;> with_reducible rfl
  simp only [Act.put, List.setIfInBounds_toArray, List.set_cons_zero, List.set_cons_succ]
  refine anyTake (i := 2) (oi := { dst := some 21, op := Op.move (Operand.tmp 2), type := 25, pos := "law.go:42", after := #[], guard := none }) (v := ?v5_2) rfl (by kernel_rfl) (by kernel_rfl) (by kernel_rfl) (fun _ _ _ h => h) (by rfl) ?t5_2 ?r5_2
  case t5_2 => (intro w' hk; go_simp) <;> with_reducible rfl
  simp only [Act.put, List.setIfInBounds_toArray, List.set_cons_zero, List.set_cons_succ]
  refine anyTake (i := 5) (oi := { dst := some 24, op := Op.move (Operand.tmp 0), type := 24, pos := "law.go:42", after := #[], guard := none }) (v := ?v5_5) rfl (by kernel_rfl) (by kernel_rfl) (by kernel_rfl) (fun _ _ _ h => h) (by rfl) ?t5_5 ?r5_5
  case t5_5 => (intro w' hk; go_simp) <;> with_reducible rfl
  simp only [Act.put, List.setIfInBounds_toArray, List.set_cons_zero, List.set_cons_succ]
  refine anyTake (i := 6) (oi := { dst := some 25, op := Op.move (Operand.tmp 2), type := 25, pos := "law.go:42", after := #[], guard := none }) (v := ?v5_6) rfl (by kernel_rfl) (by kernel_rfl) (by kernel_rfl) (fun _ _ _ h => h) (by rfl) ?t5_6 ?r5_6
  case t5_6 => (intro w' hk; go_simp) <;> with_reducible rfl
  simp only [Act.put, List.setIfInBounds_toArray, List.set_cons_zero, List.set_cons_succ]
  refine anyCall (i := 1) (oi := { dst := some 20, op := Op.call { callee := Callee.value (Operand.func 20), args := #[Operand.tmp 19], argTypes := #[24] }, type := 24, pos := "law.go:42", after := #[{ on := 0, ground := Ground.data }], guard := none }) rfl (by kernel_rfl) (by rfl) ?e5_1 ((own_any w2 _ A0 l.length c0 l (hsb.weak hw) (fun _ h => h) (by omega)).mono ?c5_1)
  case e5_1 => go_simp
  rintro e1 w3 ⟨u1, rfl, ho1, hb1⟩
  obtain ⟨A1, c1, rfl, _, _, hs1⟩ := own_shape ho1
  have K3 : Below w2.heap.size w2 w3 := hb1
  have z3 := hb1.size
  refine ⟨_, rfl, Keeps.of_below hb1, ?_⟩
  simp only [Act.put, List.setIfInBounds_toArray, List.set_cons_zero, List.set_cons_succ]
  refine anyCall (i := 3) (oi := { dst := some 22, op := Op.call { callee := Callee.value (Operand.func 19), args := #[Operand.tmp 20, Operand.tmp 21], argTypes := #[24, 25] }, type := 24, pos := "law.go:42", after := #[{ on := 1, ground := Ground.data }, { on := 2, ground := Ground.data }, { on := 1, ground := Ground.chain }], guard := none }) rfl (by kernel_rfl) (by rfl) ?e5_3 ((number_any w3 _ A1 l.length c1 l n hs1 (fun b hb => hb.2) (by omega) hn).mono ?c5_3)
  case e5_3 => go_simp
  rintro e3 w4 ⟨u3, rfl, ho3, hb3⟩
  obtain ⟨A3, c3, rfl, _, _, hs3⟩ := own_shape ho3
  have K4 : Below w2.heap.size w2 w4 := K3.trans (hb3.mono z3)
  have z4 : w2.heap.size ≤ w4.heap.size := K4.size
  refine ⟨_, rfl, Keeps.of_below hb3, ?_⟩
  simp only [Act.put, List.setIfInBounds_toArray, List.set_cons_zero, List.set_cons_succ]
  refine anyTake (i := 4) (oi := { dst := some 23, op := Op.convert 24 9 (Operand.tmp 22), type := 9, pos := "law.go:42", after := #[{ on := 3, ground := Ground.data }], guard := none }) rfl (by kernel_rfl) (by kernel_rfl) (by kernel_rfl) (fun _ _ _ h => h) (by rfl) (fun w' hk => exec_convert rfl (conv_src (hs3.keeps hk (fun b hb => ⟨hb.2, fun h => h⟩)))) ?_
  simp only [Act.put, List.setIfInBounds_toArray, List.set_cons_zero, List.set_cons_succ]
  refine anyCall (i := 7) (oi := { dst := some 26, op := Op.call { callee := Callee.value (Operand.func 21), args := #[Operand.tmp 24, Operand.tmp 25], argTypes := #[24, 25] }, type := 24, pos := "law.go:42", after := #[{ on := 5, ground := Ground.data }, { on := 6, ground := Ground.data }, { on := 3, ground := Ground.chain }], guard := none }) rfl (by kernel_rfl) (by rfl) ?e5_7 ((refNumber_any w4 _ A0 l.length c0 l n ((hsb.weak hw).below (S' := (· < w2.heap.size)) K4 (fun _ h => h)) (fun b hb => by omega) (by omega) hn).mono ?c5_7)
  case e5_7 => go_simp
  rintro e7 w5 ⟨u7, rfl, ho7, hb7⟩
  obtain ⟨A7, c7, rfl, _, _, hs7⟩ := own_shape ho7
  have K5 : Below w2.heap.size w2 w5 := K4.trans (hb7.mono z4)
  have z5 : w2.heap.size ≤ w5.heap.size := K5.size
  refine ⟨_, rfl, Keeps.of_below hb7, ?_⟩
  simp only [Act.put, List.setIfInBounds_toArray, List.set_cons_zero, List.set_cons_succ]
  refine anyTake (i := 8) (oi := { dst := some 27, op := Op.convert 24 9 (Operand.tmp 26), type := 9, pos := "law.go:42", after := #[{ on := 7, ground := Ground.data }], guard := none }) rfl (by kernel_rfl) (by kernel_rfl) (by kernel_rfl) (fun _ _ _ h => h) (by rfl) (fun w' hk => exec_convert rfl (conv_src (hs7.keeps hk (fun b hb => ⟨hb.2, fun h => h⟩)))) ?_
  simp only [Act.put, List.setIfInBounds_toArray, List.set_cons_zero, List.set_cons_succ]
  refine anyTake (i := 9) (oi := { dst := some 28, op := Op.binOp BinOp.eql 9 (Operand.tmp 23) (Operand.tmp 27) 9, type := 4, pos := "law.go:42", after := #[{ on := 4, ground := Ground.data }, { on := 8, ground := Ground.data }], guard := none }) (v := ?v5_9) rfl (by kernel_rfl) (by kernel_rfl) (by kernel_rfl) (fun _ _ _ h => h) (by rfl) ?t5_9 ?r5_9
  case t5_9 => (intro w' hk; go_simp) <;> with_reducible rfl
  simp only [Act.put, List.setIfInBounds_toArray, List.set_cons_zero, List.set_cons_succ]
  refine anyTake (i := 10) (oi := { dst := some 29, op := Op.move (Operand.tmp 28), type := 4, pos := "law.go:42", after := #[{ on := 9, ground := Ground.data }, { on := 7, ground := Ground.chain }], guard := none }) (v := ?v5_10) rfl (by kernel_rfl) (by kernel_rfl) (by kernel_rfl) (fun _ _ _ h => h) (by rfl) ?t5_10 ?r5_10
  case t5_10 => (intro w' hk; go_simp) <;> with_reducible rfl
  simp only [Act.put, List.setIfInBounds_toArray, List.set_cons_zero, List.set_cons_succ]
  refine anyTake (i := 11) (oi := { dst := some 30, op := Op.move (Operand.tmp 0), type := 24, pos := "law.go:42", after := #[{ on := 10, ground := Ground.guard }], guard := some (10, true) }) (v := ?v5_11) rfl (by kernel_rfl) (by kernel_rfl) (by kernel_rfl) (fun _ _ _ h => h) (by rfl) ?t5_11 ?r5_11
  case t5_11 => (intro w' hk; go_simp) <;> with_reducible rfl
  simp only [Act.put, List.setIfInBounds_toArray, List.set_cons_zero, List.set_cons_succ]
  refine anyTake (i := 13) (oi := { dst := some 32, op := Op.move (Operand.tmp 1), type := 24, pos := "law.go:42", after := #[{ on := 10, ground := Ground.guard }], guard := some (10, true) }) (v := ?v5_13) rfl (by kernel_rfl) (by kernel_rfl) (by kernel_rfl) (fun _ _ _ h => h) (by rfl) ?t5_13 ?r5_13
  case t5_13 => (intro w' hk; go_simp) <;> with_reducible rfl
  simp only [Act.put, List.setIfInBounds_toArray, List.set_cons_zero, List.set_cons_succ]
  refine anyTake (i := 17) (oi := { dst := some 36, op := Op.move (Operand.tmp 0), type := 24, pos := "law.go:42", after := #[{ on := 10, ground := Ground.guard }], guard := some (10, true) }) (v := ?v5_17) rfl (by kernel_rfl) (by kernel_rfl) (by kernel_rfl) (fun _ _ _ h => h) (by rfl) ?t5_17 ?r5_17
  case t5_17 => (intro w' hk; go_simp) <;> with_reducible rfl
  simp only [Act.put, List.setIfInBounds_toArray, List.set_cons_zero, List.set_cons_succ]
  refine anyTake (i := 18) (oi := { dst := some 37, op := Op.move (Operand.tmp 1), type := 24, pos := "law.go:42", after := #[{ on := 10, ground := Ground.guard }], guard := some (10, true) }) (v := ?v5_18) rfl (by kernel_rfl) (by kernel_rfl) (by kernel_rfl) (fun _ _ _ h => h) (by rfl) ?t5_18 ?r5_18
  case t5_18 => (intro w' hk; go_simp) <;> with_reducible rfl
  simp only [Act.put, List.setIfInBounds_toArray, List.set_cons_zero, List.set_cons_succ]
  refine anyCall (i := 12) (oi := { dst := some 31, op := Op.call { callee := Callee.value (Operand.func 20), args := #[Operand.tmp 30], argTypes := #[24] }, type := 24, pos := "law.go:42", after := #[{ on := 11, ground := Ground.data }, { on := 10, ground := Ground.chain }, { on := 10, ground := Ground.guard }], guard := some (10, true) }) rfl (by kernel_rfl) (by rfl) ?e5_12 ((own_any w5 _ A0 l.length c0 l ((hsb.weak hw).below (S' := (· < w2.heap.size)) K5 (fun _ h => h)) (fun b hb => by omega) (by omega)).mono ?c5_12)
  case e5_12 => go_simp
  rintro e12 w6 ⟨u12, rfl, ho12, hb12⟩
  obtain ⟨A12, c12, rfl, _, _, hs12⟩ := own_shape ho12
  have K6 : Below w2.heap.size w2 w6 := K5.trans (hb12.mono z5)
  have z6 : w2.heap.size ≤ w6.heap.size := K6.size
  have z56 := hb12.size
  refine ⟨_, rfl, Keeps.of_below hb12, ?_⟩
  simp only [Act.put, List.setIfInBounds_toArray, List.set_cons_zero, List.set_cons_succ]
  refine anyCall (i := 14) (oi := { dst := some 33, op := Op.call { callee := Callee.value (Operand.func 20), args := #[Operand.tmp 32], argTypes := #[24] }, type := 24, pos := "law.go:42", after := #[{ on := 13, ground := Ground.data }, { on := 12, ground := Ground.chain }, { on := 10, ground := Ground.guard }], guard := some (10, true) }) rfl (by kernel_rfl) (by rfl) ?e5_14 ((own_any w6 _ A1' p.length c1' p ((hsp.weak hw).below (S' := (· < w2.heap.size)) K6 (fun _ h => h)) (fun b hb => by omega) (by omega)).mono ?c5_14)
  case e5_14 => go_simp
  rintro e14 w7 ⟨u14, rfl, ho14, hb14⟩
  obtain ⟨A14, c14, rfl, _, _, hs14⟩ := own_shape ho14
  have K7 : Below w2.heap.size w2 w7 := K6.trans (hb14.mono z6)
  have z7 : w2.heap.size ≤ w7.heap.size := K7.size
  have z67 := hb14.size
  have hs12' := (hs12.weak (S' := (· < w6.heap.size)) (fun b hb => hb.2)).below (S' := (· < w7.heap.size)) hb14 (fun b hb => by omega)
  have hs14' := hs14.weak (S' := (· < w7.heap.size)) (fun b hb => hb.2)
  refine ⟨_, rfl, Keeps.of_below hb14, ?_⟩
  simp only [Act.put, List.setIfInBounds_toArray, List.set_cons_zero, List.set_cons_succ]
  refine anyCall (i := 15) (oi := { dst := some 34, op := Op.call { callee := Callee.value (Operand.func 22), args := #[Operand.tmp 31, Operand.tmp 33], argTypes := #[24, 24] }, type := 24, pos := "law.go:42", after := #[{ on := 12, ground := Ground.data }, { on := 14, ground := Ground.data }, { on := 14, ground := Ground.chain }, { on := 10, ground := Ground.guard }], guard := some (10, true) }) rfl (by kernel_rfl) (by rfl) ?e5_15 ((block_any w7 _ A12 A14 l.length c12 p.length c14 l p hs12' hs14' (fun b hb => hb) (by omega) (by omega)).mono ?c5_15)
  case e5_15 => go_simp
  rintro e15 w8 ⟨u15, rfl, ho15, hb15⟩
  obtain ⟨A15, c15, rfl, _, _, hs15⟩ := own_shape ho15
  have K8 : Below w2.heap.size w2 w8 := K7.trans (hb15.mono z7)
  have z8 : w2.heap.size ≤ w8.heap.size := K8.size
  refine ⟨_, rfl, Keeps.of_below hb15, ?_⟩
  simp only [Act.put, List.setIfInBounds_toArray, List.set_cons_zero, List.set_cons_succ]
  refine anyTake (i := 16) (oi := { dst := some 35, op := Op.convert 24 9 (Operand.tmp 34), type := 9, pos := "law.go:42", after := #[{ on := 15, ground := Ground.data }, { on := 10, ground := Ground.guard }], guard := some (10, true) }) rfl (by kernel_rfl) (by kernel_rfl) (by kernel_rfl) (fun _ _ _ h => h) (by rfl) (fun w' hk => exec_convert rfl (conv_src (hs15.keeps hk (fun b hb => ⟨hb.2, fun h => h⟩)))) ?_
  simp only [Act.put, List.setIfInBounds_toArray, List.set_cons_zero, List.set_cons_succ]
  refine anyCall (i := 19) (oi := { dst := some 38, op := Op.call { callee := Callee.value (Operand.func 23), args := #[Operand.tmp 36, Operand.tmp 37], argTypes := #[24, 24] }, type := 24, pos := "law.go:42", after := #[{ on := 17, ground := Ground.data }, { on := 18, ground := Ground.data }, { on := 15, ground := Ground.chain }, { on := 10, ground := Ground.guard }], guard := some (10, true) }) rfl (by kernel_rfl) (by rfl) ?e5_19 ((refBlock_any w8 _ A0 A1' l.length c0 p.length c1' l p ((hsb.weak hw).below (S' := (· < w2.heap.size)) K8 (fun _ h => h)) ((hsp.weak hw).below (S' := (· < w2.heap.size)) K8 (fun _ h => h)) (fun b hb => by omega) (by omega) (by omega)).mono ?c5_19)
  case e5_19 => go_simp
  rintro e19 w9 ⟨u19, rfl, ho19, hb19⟩
  obtain ⟨A19, c19, rfl, _, _, hs19⟩ := own_shape ho19
  have K9 : Below w2.heap.size w2 w9 := K8.trans (hb19.mono z8)
  have z9 : w2.heap.size ≤ w9.heap.size := K9.size
  refine ⟨_, rfl, Keeps.of_below hb19, ?_⟩
  simp only [Act.put, List.setIfInBounds_toArray, List.set_cons_zero, List.set_cons_succ]
  refine anyTake (i := 20) (oi := { dst := some 39, op := Op.convert 24 9 (Operand.tmp 38), type := 9, pos := "law.go:42", after := #[{ on := 19, ground := Ground.data }, { on := 10, ground := Ground.guard }], guard := some (10, true) }) rfl (by kernel_rfl) (by kernel_rfl) (by kernel_rfl) (fun _ _ _ h => h) (by rfl) (fun w' hk => exec_convert rfl (conv_src (hs19.keeps hk (fun b hb => ⟨hb.2, fun h => h⟩)))) ?_
  simp only [Act.put, List.setIfInBounds_toArray, List.set_cons_zero, List.set_cons_succ]
  refine anyTake (i := 21) (oi := { dst := some 40, op := Op.binOp BinOp.eql 9 (Operand.tmp 35) (Operand.tmp 39) 9, type := 4, pos := "law.go:42", after := #[{ on := 16, ground := Ground.data }, { on := 20, ground := Ground.data }, { on := 10, ground := Ground.guard }], guard := some (10, true) }) (v := ?v5_21) rfl (by kernel_rfl) (by kernel_rfl) (by kernel_rfl) (fun _ _ _ h => h) (by rfl) ?t5_21 ?r5_21
  case t5_21 => (intro w' hk; go_simp) <;> with_reducible rfl
  simp only [Act.put, List.setIfInBounds_toArray, List.set_cons_zero, List.set_cons_succ]
  refine anyTake (i := 22) (oi := { dst := some 41, op := Op.pick (Operand.tmp 29) (Operand.tmp 40) (Operand.const (Value.bool false)), type := 4, pos := "law.go:42", after := #[{ on := 10, ground := Ground.data }, { on := 21, ground := Ground.data }], guard := none }) (v := ?v5_22) rfl (by kernel_rfl) (by kernel_rfl) (by kernel_rfl) (fun _ _ _ h => h) (by rfl) ?t5_22 ?r5_22
  case t5_22 => (intro w' hk; go_simp) <;> with_reducible rfl
  simp only [Act.put, List.setIfInBounds_toArray, List.set_cons_zero, List.set_cons_succ]
  refine anyTake (i := 23) (oi := { dst := some 42, op := Op.move (Operand.tmp 41), type := 4, pos := "law.go:42", after := #[{ on := 22, ground := Ground.data }, { on := 19, ground := Ground.chain }], guard := none }) (v := ?v5_23) rfl (by kernel_rfl) (by kernel_rfl) (by kernel_rfl) (fun _ _ _ h => h) (by rfl) ?t5_23 ?r5_23
  case t5_23 => (intro w' hk; go_simp) <;> with_reducible rfl
  simp only [Act.put, List.setIfInBounds_toArray, List.set_cons_zero, List.set_cons_succ]
  refine anyTake (i := 24) (oi := { dst := some 43, op := Op.move (Operand.tmp 0), type := 24, pos := "law.go:42", after := #[{ on := 23, ground := Ground.guard }], guard := some (23, true) }) (v := ?v5_24) rfl (by kernel_rfl) (by kernel_rfl) (by kernel_rfl) (fun _ _ _ h => h) (by rfl) ?t5_24 ?r5_24
  case t5_24 => (intro w' hk; go_simp) <;> with_reducible rfl
  simp only [Act.put, List.setIfInBounds_toArray, List.set_cons_zero, List.set_cons_succ]
  refine anyTake (i := 26) (oi := { dst := some 45, op := Op.move (Operand.tmp 2), type := 25, pos := "law.go:42", after := #[{ on := 23, ground := Ground.guard }], guard := some (23, true) }) (v := ?v5_26) rfl (by kernel_rfl) (by kernel_rfl) (by kernel_rfl) (fun _ _ _ h => h) (by rfl) ?t5_26 ?r5_26
  case t5_26 => (intro w' hk; go_simp) <;> with_reducible rfl
  simp only [Act.put, List.setIfInBounds_toArray, List.set_cons_zero, List.set_cons_succ]
  refine anyTake (i := 27) (oi := { dst := some 46, op := Op.move (Operand.tmp 3), type := 3, pos := "law.go:42", after := #[{ on := 23, ground := Ground.guard }], guard := some (23, true) }) (v := ?v5_27) rfl (by kernel_rfl) (by kernel_rfl) (by kernel_rfl) (fun _ _ _ h => h) (by rfl) ?t5_27 ?r5_27
  case t5_27 => (intro w' hk; go_simp) <;> with_reducible rfl
  simp only [Act.put, List.setIfInBounds_toArray, List.set_cons_zero, List.set_cons_succ]
  refine anyTake (i := 30) (oi := { dst := some 49, op := Op.move (Operand.tmp 0), type := 24, pos := "law.go:42", after := #[{ on := 23, ground := Ground.guard }], guard := some (23, true) }) (v := ?v5_30) rfl (by kernel_rfl) (by kernel_rfl) (by kernel_rfl) (fun _ _ _ h => h) (by rfl) ?t5_30 ?r5_30
  case t5_30 => (intro w' hk; go_simp) <;> with_reducible rfl
  simp only [Act.put, List.setIfInBounds_toArray, List.set_cons_zero, List.set_cons_succ]
  refine anyTake (i := 31) (oi := { dst := some 50, op := Op.move (Operand.tmp 2), type := 25, pos := "law.go:42", after := #[{ on := 23, ground := Ground.guard }], guard := some (23, true) }) (v := ?v5_31) rfl (by kernel_rfl) (by kernel_rfl) (by kernel_rfl) (fun _ _ _ h => h) (by rfl) ?t5_31 ?r5_31
  case t5_31 => (intro w' hk; go_simp) <;> with_reducible rfl
  simp only [Act.put, List.setIfInBounds_toArray, List.set_cons_zero, List.set_cons_succ]
  refine anyTake (i := 32) (oi := { dst := some 51, op := Op.move (Operand.tmp 3), type := 3, pos := "law.go:42", after := #[{ on := 23, ground := Ground.guard }], guard := some (23, true) }) (v := ?v5_32) rfl (by kernel_rfl) (by kernel_rfl) (by kernel_rfl) (fun _ _ _ h => h) (by rfl) ?t5_32 ?r5_32
  case t5_32 => (intro w' hk; go_simp) <;> with_reducible rfl
  simp only [Act.put, List.setIfInBounds_toArray, List.set_cons_zero, List.set_cons_succ]
  refine anyCall (i := 25) (oi := { dst := some 44, op := Op.call { callee := Callee.value (Operand.func 20), args := #[Operand.tmp 43], argTypes := #[24] }, type := 24, pos := "law.go:42", after := #[{ on := 24, ground := Ground.data }, { on := 23, ground := Ground.chain }, { on := 23, ground := Ground.guard }], guard := some (23, true) }) rfl (by kernel_rfl) (by rfl) ?e5_25 ((own_any w9 _ A0 l.length c0 l ((hsb.weak hw).below (S' := (· < w2.heap.size)) K9 (fun _ h => h)) (fun b hb => by omega) (by omega)).mono ?c5_25)
  case e5_25 => go_simp
  rintro e25 w10 ⟨u25, rfl, ho25, hb25⟩
  obtain ⟨A25, c25, rfl, _, _, hs25⟩ := own_shape ho25
  have K10 : Below w2.heap.size w2 w10 := K9.trans (hb25.mono z9)
  have z10 : w2.heap.size ≤ w10.heap.size := K10.size
  refine ⟨_, rfl, Keeps.of_below hb25, ?_⟩
  simp only [Act.put, List.setIfInBounds_toArray, List.set_cons_zero, List.set_cons_succ]
  refine anyCall (i := 28) (oi := { dst := some 47, op := Op.call { callee := Callee.value (Operand.func 18), args := #[Operand.tmp 44, Operand.tmp 45, Operand.tmp 46], argTypes := #[24, 25, 3] }, type := 24, pos := "law.go:42", after := #[{ on := 25, ground := Ground.data }, { on := 26, ground := Ground.data }, { on := 27, ground := Ground.data }, { on := 25, ground := Ground.chain }, { on := 23, ground := Ground.guard }], guard := some (23, true) }) rfl (by kernel_rfl) (by rfl) ?e5_28 ((word_any w10 _ A25 l.length c25 l n size hs25 (fun b hb => hb.2) (by omega) hn).mono ?c5_28)
  case e5_28 => go_simp
  rintro e28 w11 ⟨u28, rfl, ho28, hb28⟩
  obtain ⟨A28, c28, rfl, _, _, hs28⟩ := own_shape ho28
  have K11 : Below w2.heap.size w2 w11 := K10.trans (hb28.mono z10)
  have z11 : w2.heap.size ≤ w11.heap.size := K11.size
  refine ⟨_, rfl, Keeps.of_below hb28, ?_⟩
  simp only [Act.put, List.setIfInBounds_toArray, List.set_cons_zero, List.set_cons_succ]
  refine anyTake (i := 29) (oi := { dst := some 48, op := Op.convert 24 9 (Operand.tmp 47), type := 9, pos := "law.go:42", after := #[{ on := 28, ground := Ground.data }, { on := 23, ground := Ground.guard }], guard := some (23, true) }) rfl (by kernel_rfl) (by kernel_rfl) (by kernel_rfl) (fun _ _ _ h => h) (by rfl) (fun w' hk => exec_convert rfl (conv_src (hs28.keeps hk (fun b hb => ⟨hb.2, fun h => h⟩)))) ?_
  simp only [Act.put, List.setIfInBounds_toArray, List.set_cons_zero, List.set_cons_succ]
  refine anyCall (i := 33) (oi := { dst := some 52, op := Op.call { callee := Callee.value (Operand.func 24), args := #[Operand.tmp 49, Operand.tmp 50, Operand.tmp 51], argTypes := #[24, 25, 3] }, type := 24, pos := "law.go:42", after := #[{ on := 30, ground := Ground.data }, { on := 31, ground := Ground.data }, { on := 32, ground := Ground.data }, { on := 28, ground := Ground.chain }, { on := 23, ground := Ground.guard }], guard := some (23, true) }) rfl (by kernel_rfl) (by rfl) ?e5_33 ((refWord_any w11 _ A0 l.length c0 l n size ((hsb.weak hw).below (S' := (· < w2.heap.size)) K11 (fun _ h => h)) (fun b hb => by omega) (by omega) hn).mono ?c5_33)
  case e5_33 => go_simp
  rintro e33 w12 ⟨u33, rfl, ho33, hb33⟩
  obtain ⟨A33, c33, rfl, _, _, hs33⟩ := own_shape ho33
  have K12 : Below w2.heap.size w2 w12 := K11.trans (hb33.mono z11)
  refine ⟨_, rfl, Keeps.of_below hb33, ?_⟩
  simp only [Act.put, List.setIfInBounds_toArray, List.set_cons_zero, List.set_cons_succ]
  refine anyTake (i := 34) (oi := { dst := some 53, op := Op.convert 24 9 (Operand.tmp 52), type := 9, pos := "law.go:42", after := #[{ on := 33, ground := Ground.data }, { on := 23, ground := Ground.guard }], guard := some (23, true) }) rfl (by kernel_rfl) (by kernel_rfl) (by kernel_rfl) (fun _ _ _ h => h) (by rfl) (fun w' hk => exec_convert rfl (conv_src (hs33.keeps hk (fun b hb => ⟨hb.2, fun h => h⟩)))) ?_
  simp only [Act.put, List.setIfInBounds_toArray, List.set_cons_zero, List.set_cons_succ]
  refine anyTake (i := 35) (oi := { dst := some 54, op := Op.binOp BinOp.eql 9 (Operand.tmp 48) (Operand.tmp 53) 9, type := 4, pos := "law.go:42", after := #[{ on := 29, ground := Ground.data }, { on := 34, ground := Ground.data }, { on := 23, ground := Ground.guard }], guard := some (23, true) }) (v := ?v5_35) rfl (by kernel_rfl) (by kernel_rfl) (by kernel_rfl) (fun _ _ _ h => h) (by rfl) ?t5_35 ?r5_35
  case t5_35 => (intro w' hk; go_simp) <;> with_reducible rfl
  simp only [Act.put, List.setIfInBounds_toArray, List.set_cons_zero, List.set_cons_succ]
  refine anyTake (i := 36) (oi := { dst := some 55, op := Op.pick (Operand.tmp 42) (Operand.tmp 54) (Operand.const (Value.bool false)), type := 4, pos := "law.go:42", after := #[{ on := 23, ground := Ground.data }, { on := 35, ground := Ground.data }], guard := none }) (v := ?v5_36) rfl (by kernel_rfl) (by kernel_rfl) (by kernel_rfl) (fun _ _ _ h => h) (by rfl) ?t5_36 ?r5_36
  case t5_36 => (intro w' hk; go_simp) <;> with_reducible rfl
  simp only [Act.put, List.setIfInBounds_toArray, List.set_cons_zero, List.set_cons_succ]
  refine anyTake (i := 37) (oi := { dst := some 8, op := Op.assign (Operand.tmp 55), type := 4, pos := "law.go:42", after := #[{ on := 36, ground := Ground.data }, { on := 33, ground := Ground.chain }, { on := 0, ground := Ground.phase }, { on := 1, ground := Ground.phase }, { on := 2, ground := Ground.phase }, { on := 3, ground := Ground.phase }, { on := 4, ground := Ground.phase }, { on := 5, ground := Ground.phase }, { on := 6, ground := Ground.phase }, { on := 7, ground := Ground.phase }, { on := 8, ground := Ground.phase }, { on := 9, ground := Ground.phase }, { on := 10, ground := Ground.phase }, { on := 11, ground := Ground.phase }, { on := 12, ground := Ground.phase }, { on := 13, ground := Ground.phase }, { on := 14, ground := Ground.phase }, { on := 15, ground := Ground.phase }, { on := 16, ground := Ground.phase }, { on := 17, ground := Ground.phase }, { on := 18, ground := Ground.phase }, { on := 19, ground := Ground.phase }, { on := 20, ground := Ground.phase }, { on := 21, ground := Ground.phase }, { on := 22, ground := Ground.phase }, { on := 23, ground := Ground.phase }, { on := 24, ground := Ground.phase }, { on := 25, ground := Ground.phase }, { on := 26, ground := Ground.phase }, { on := 27, ground := Ground.phase }, { on := 28, ground := Ground.phase }, { on := 29, ground := Ground.phase }, { on := 30, ground := Ground.phase }, { on := 31, ground := Ground.phase }, { on := 32, ground := Ground.phase }, { on := 33, ground := Ground.phase }, { on := 34, ground := Ground.phase }, { on := 35, ground := Ground.phase }, { on := 36, ground := Ground.phase }], guard := none }) (v := ?v5_37) rfl (by kernel_rfl) (by kernel_rfl) (by kernel_rfl) (fun _ _ _ h => h) (by rfl) ?t5_37 ?r5_37
  case t5_37 => (intro w' hk; go_simp) <;> with_reducible rfl
  simp only [Act.put, List.setIfInBounds_toArray, List.set_cons_zero, List.set_cons_succ]
  refine anyDone (by kernel_rfl) ?_ _
  go_wp2
  go_ret
  exact ⟨rfl, HB2.trans (K12.mono HB2.size)⟩

set_option maxHeartbeats 400000 in
theorem walkLong (w : World) (A0 A1' : Option Addr) (n0 c0 n1 c1' : Nat) (n size : Int) (h : 3000 < n0 ∨ 3000 < n1) (h0 : n0 ≤ 9223372036854775807) (h1 : n1 ≤ 9223372036854775807) :
    Calls Try.prog 4 #[.slice A0 n0 c0, .slice A1' n1 c1', .int .u64 n, .int .i64 size] w fun e w' => e = .returned (.bool true) ∧ Below w.heap.size w w' := by
  have hd : ((3000 : Int) < (n0 : Int)) ∨ ((n0 : Int) ≤ 3000 ∧ (3000 : Int) < (n1 : Int)) := by omega
  rcases hd with hd | ⟨hd, hd'⟩
  all_goals
    go_enter Try.func4, Try.ntmps4
    go_wp2_with fail
    refine (lives_any w).mono ?_
    rintro e1 w1 ⟨rfl, hb1⟩
    go_wp2
    go_ret
    exact ⟨rfl, hb1⟩

theorem walk (a0 : Option Addr) (len0 cap0 : Nat) (z0 : List Int) (a1 : Option Addr) (len1 cap1 : Nat) (z1 : List Int) (a2 : Int) (a3 : Int) (w : World) (w0 : IsRow .u8 w a0 len0 cap0 z0) (w1 : IsRow .u8 w a1 len1 cap1 z1) (w2 : (Lit.int .u64 a2).wf = true) (w3 : (Lit.int .i64 a3).wf = true) :
    Calls Try.prog 4 #[.slice a0 len0 cap0, .slice a1 len1 cap1, .int .u64 a2, .int .i64 a3] w fun e w' => e = .returned (.bool true) ∧ Below w.heap.size w w' := by
  have b2 := bounds_u64 w2
  obtain ⟨n, rfl⟩ := Int.eq_ofNat_of_zero_le b2.1
  obtain ⟨h1, h2, l, hl⟩ := w0.bytes
  obtain ⟨h3, h4, p, hp⟩ := w1.bytes
  unfold maxLen at h2 h4
  by_cases h : len0 ≤ 3000 ∧ len1 ≤ 3000
  · exact walkB w a0 a1 len0 cap0 len1 cap1 l p n a3 hl hp h.1 h.2 (by omega)
  · exact walkLong w a0 a1 len0 cap0 len1 cap1 n a3 (by omega) (by omega) (by omega)

set_option maxRecDepth 100000 in
theorem lifted (os : Os) (started : os.Started) (H : Type) (enc : TypeId × Value → H) :
    ReturnsInHanded {} Try.checked os 4 .any (Rows.octetCallsSpec.pre6 enc Try.prog Try.f4 Rows.octetCallsRow.domain false) (Rows.octetCallsSpec.post enc Try.prog Try.f4 false true false false) := by
  refine returnsInHanded_of_change (C := Try.checked) own started (by kernel_rfl) Try.func4
    (ChangeSpec.witness6 (enc := enc) (C := Try.checked) false ⟨#[], #[.slice none 0 0, .slice none 0 0, .int .u64 0, .int .i64 0], []⟩ 8 (by kernel_rfl) (by kernel_rfl) (by kernel_rfl) (by kernel_rfl)) ?_
  intro W base args ds gs before hval0 hW hcnd _
  have hval : ∀ (j : Nat) t v, Try.f4.params[j]? = some t → args[j]? = some v → Value.okWide Try.prog W .any base t v := hval0
  have hW' := hW
  obtain ⟨p, q, hA0, hV, rfl, hfz, hnd⟩ := hW
  have hA : DataW.TrodAll enc Try.prog W 0 (fun _ => true) true Try.f4.params.toList args.toList ds p := hA0
  rw [Try.params4] at hA hval
  obtain ⟨v0, vs0, d0, ds0, p0, q0, hargs, rfl, rfl, h0, r0⟩ := trodAll_cons hA
  obtain ⟨v1, vs1, d1, ds1, p1, q1, rfl, rfl, rfl, h1, r1⟩ := trodAll_cons r0
  obtain ⟨v2, vs2, d2, ds2, p2, q2, rfl, rfl, rfl, h2, r2⟩ := trodAll_cons r1
  obtain ⟨v3, vs3, d3, ds3, p3, q3, rfl, rfl, rfl, h3, r3⟩ := trodAll_cons r2
  obtain ⟨rfl, rfl, rfl⟩ := trodAll_nil r3
  obtain rfl : args = #[v0, v1, v2, v3] := by cases args; simp_all
  obtain ⟨rfl, rfl⟩ := trodVars_none hV
  obtain ⟨a0, len0, cap0, rfl⟩ := okWide_slice Try.underlying24 (hval 0 24 v0 rfl rfl)
  have k0 := h0
  have lt0 : ∀ x ∈ p0, x.block < W.heap.size := by obtain ⟨m, hm⟩ := k0; exact DataW.trod_lt m _ _ _ hm
  obtain ⟨z0, w0⟩ : ∃ zs, IsRow .u8 W a0 len0 cap0 zs := by
    obtain ⟨fuel, hf⟩ := h0
    rcases open_ints Try.underlying24 Try.underlying5 (by kernel_rfl) hf with ⟨hcs, _⟩ | ⟨x, l, c, zs, hcs, _, hl, hm, hz, _, hcell, hwz⟩
    · simp [Value.cells] at hcs
      obtain ⟨rfl, rfl, rfl⟩ := hcs
      exact ⟨[], .inl ⟨rfl, rfl, rfl, rfl⟩⟩
    · simp [Value.cells] at hcs
      obtain ⟨rfl, rfl, rfl⟩ := hcs
      exact ⟨zs, .inr ⟨_, rfl, hl, hm, by simpa using hz, hcell, hwz⟩⟩
  obtain ⟨a1, len1, cap1, rfl⟩ := okWide_slice Try.underlying24 (hval 1 24 v1 rfl rfl)
  have k1 := h1
  have lt1 : ∀ x ∈ p1, x.block < W.heap.size := by obtain ⟨m, hm⟩ := k1; exact DataW.trod_lt m _ _ _ hm
  obtain ⟨z1, w1⟩ : ∃ zs, IsRow .u8 W a1 len1 cap1 zs := by
    obtain ⟨fuel, hf⟩ := h1
    rcases open_ints Try.underlying24 Try.underlying5 (by kernel_rfl) hf with ⟨hcs, _⟩ | ⟨x, l, c, zs, hcs, _, hl, hm, hz, _, hcell, hwz⟩
    · simp [Value.cells] at hcs
      obtain ⟨rfl, rfl, rfl⟩ := hcs
      exact ⟨[], .inl ⟨rfl, rfl, rfl, rfl⟩⟩
    · simp [Value.cells] at hcs
      obtain ⟨rfl, rfl, rfl⟩ := hcs
      exact ⟨zs, .inr ⟨_, rfl, hl, hm, by simpa using hz, hcell, hwz⟩⟩
  obtain ⟨a2, rfl, rfl, rfl, w2⟩ := open_int Try.underlying25 (hval 2 25 v2 rfl rfl) h2
  obtain ⟨a3, rfl, rfl, rfl, w3⟩ := open_int Try.underlying3 (hval 3 3 v3 rfl rfl) h3
  clear hA0 hval0
  refine (walk a0 len0 cap0 z0 a1 len1 cap1 z1 a2 a3 W w0 w1 w2 w3).mono fun e W' ⟨he, bel⟩ => ?_
  subst he
  exact ⟨_, rfl, _, _, _, [], _, [], hW', trodAll_mk1 (shut_bool Try.underlying4 _), (trodAll_cons_mk (Below.trod laidOut (by kernel_rfl) (of_decide_eq_true (by kernel_rfl)) k0 bel lt0) (trodAll_cons_mk (Below.trod laidOut (by kernel_rfl) (of_decide_eq_true (by kernel_rfl)) k1 bel lt1) (trodAll_cons_mk (shut_int Try.underlying25 w2) (trodAll_cons_mk (shut_int Try.underlying3 w3) trodAll_mk0)))), rfl, bel.frame _, fun h => by cases h⟩

theorem over : Rows.octetCallsRow.holds Try.pinned (OpenSpec.ofChange Rows.octetCallsSpec) :=
  OpenClaim.holds_of_wide 4 Try.f4 rfl rfl rfl rfl rfl rfl rfl ⟨rfl, rfl, rfl, rfl, rfl⟩ rfl rfl rfl rfl rfl (by kernel_rfl) Try.func4 (by kernel_rfl)
    (of_decide_eq_true (by kernel_rfl)) (by unfold Func.isWrapper; first | (rw [if_pos (by decide +kernel)]; kernel_rfl) | (rw [if_neg (by decide +kernel)]; exact ⟨rfl, rfl⟩))
    (fun os started H enc _ => lifted os started H enc)

/-- The statement. -/
theorem proved : Rows.OctetCallsSaid := over
#print axioms proved
end Go.Proofs.Ytbcalhhfcnbppaa.octetCalls
