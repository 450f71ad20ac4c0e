/- A record, read. No statement is proved here. -/
import Derived.Test.YtkglicidjdifkaaRJ
namespace Go.Proofs.Ytkglicidjdifkaa
open Go.RowKit
set_option linter.unusedVariables false
set_option linter.unusedSimpArgs false
theorem results_ctct {P : Program} {fn : Func} {p q r s : Tmp} {ty ty2 : TypeId} (h : fn.results = #[.cell p ty, .tmp q, .cell r ty2, .tmp s]) (tmps : Array Value) (w : World) (g g2 : Nat) (t t2 : TypeId) (cs cs2 : Array Value) (fr fr2 : Nat × Nat) (d d2 : TypeDesc) (u v : Value)
    (hp : tmps.getD p undef = .pointer (some ⟨g, 0, none⟩)) (hg : w.heap[g]? = some (.cells cs t fr)) (hu0 : tmps.getD q undef = u) (hp2 : tmps.getD r undef = .pointer (some ⟨g2, 0, none⟩)) (hg2 : w.heap[g2]? = some (.cells cs2 t2 fr2)) (hv : tmps.getD s undef = v)
    (hu : P.underlying ty = some d) (hd : (match d with | .struct _ | .array _ _ => true | _ => false) = true) (hi : (P.info? ty).map (·.size) = some cs.size)
    (hu2 : P.underlying ty2 = some d2) (hd2 : (match d2 with | .struct _ | .array _ _ => true | _ => false) = true) (hi2 : (P.info? ty2).map (·.size) = some cs2.size) :
    (results fn tmps).run P w = .ok (.tuple #[.agg cs, u, .agg cs2, v]) w := by
  have hu0' : tmps[q]?.getD undef = u := by simpa using hu0
  have hp' : tmps[p]?.getD undef = .pointer (some ⟨g, 0, none⟩) := by simpa using hp
  have hp2' : tmps[r]?.getD undef = .pointer (some ⟨g2, 0, none⟩) := by simpa using hp2
  have hv' : tmps[s]?.getD undef = v := by simpa using hv
  simp [results, h, hu0', hp', hp2', hv', asAddr, run_loadVar_row w g t ty cs fr d hg hu hd hi, run_loadVar_row w g2 t2 ty2 cs2 fr2 d2 hg2 hu2 hd2 hi2]
/-- The call's own rows: the chain, the two that come out; and what is read. -/
structure RB (w0 w : World) (g2 g4 g6 : Nat) (ch : List UInt8) (S : Nat → Prop) (A : Option Addr) (n : Nat) (b : List UInt8) : Prop where
  C : DAt w g2 ch
  O4 : RAt w g4 0 none 0 0
  O6 : DAt w g6 (List.replicate 32 0)
  B : Below w0.heap.size w0 w
  I : Src w S A n (bcs b)
  sl : ∀ b, S b → b < w0.heap.size
  d24 : g2 < g4
  d46 : g4 < g6
  l2 : w0.heap.size ≤ g2
/-- A record with its data, behind them. -/
structure RR (w : World) (g6 g8 : Nat) (k : UInt8) (A : Option Addr) (n c : Nat) (d : List UInt8) : Prop where
  R : RAt w g8 k A n c
  D : Src w (fun b => g6 < b ∧ b < g8) A n (bcs d)
  c1 : n ≤ c
  c2 : c ≤ maxLen
  gg : g6 < g8
section
variable {w0 w w' : World} {g2 g4 g6 g8 : Nat} {ch : List UInt8} {k : UInt8} {A A' : Option Addr} {n c m : Nat} {b d : List UInt8} {S : Nat → Prop}
theorem RB.below (h : RB w0 w g2 g4 g6 ch S A n b) (hb : Below w.heap.size w w') : RB w0 w' g2 g4 g6 ch S A n b :=
  ⟨h.C.below hb h.C.lt, h.O4.below hb h.O4.lt, h.O6.below hb h.O6.lt, h.B.trans (hb.mono h.B.size), h.I.below' hb (fun b hb' => Nat.lt_of_lt_of_le (h.sl b hb') h.B.size), h.sl, h.d24, h.d46, h.l2⟩
theorem RB.grown (h : RB w0 w g2 g4 g6 ch S A n b) {r : Nat} (hg : w.grownBy w' (some r)) (hr : g6 < r) : RB w0 w' g2 g4 g6 ch S A n b :=
  have a1 := h.d24
  have a2 := h.d46
  have a3 := h.l2
  ⟨h.C.grown hg (fun r e => by cases e; omega), h.O4.grown hg (fun r e => by cases e; omega), h.O6.grown hg (fun r e => by cases e; omega), h.B.grown hg h.B.size (fun r e => by cases e; omega), h.I.grown hg (fun b hb => ⟨Nat.lt_of_lt_of_le (h.sl b hb) h.B.size, fun e => by injection e with e; have := h.sl b hb; omega⟩) (fun _ hb => hb), h.sl, h.d24, h.d46, h.l2⟩
theorem RB.drewN (h : RB w0 w g2 g4 g6 ch S A n b) (j : Nat) : RB w0 (w.drewN j) g2 g4 g6 ch S A n b := ⟨h.C.drewN j, h.O4.drewN j, h.O6.drewN j, below_drewN' h.B j, h.I.drewN j, h.sl, h.d24, h.d46, h.l2⟩
theorem RB.start {w1 w2 w3 : World} (hS : ∀ b, S b → b < w0.heap.size) (hI : Src w0 S A n (bcs b)) (hC : DAt w1 w0.heap.size ch) (hR : RAt w2 w1.heap.size 0 none 0 0) (hO : DAt w3 w2.heap.size (List.replicate 32 0)) (b1 : Below w0.heap.size w0 w1) (b2 : Below w1.heap.size w1 w2) (b3 : Below w2.heap.size w2 w3)
    (z1 : w1.heap.size = w0.heap.size + 1) (z2 : w2.heap.size = w1.heap.size + 1) (z3 : w3.heap.size = w2.heap.size + 1) : RB w0 w3 w0.heap.size w1.heap.size w2.heap.size ch S A n b :=
  have B : Below w0.heap.size w0 w3 := (b1.trans (b2.mono b1.size)).trans (b3.mono (by omega))
  ⟨(hC.below b2 (by omega)).below b3 (by omega), hR.below b3 (by omega), hO, B, hI.below' B hS, hS, by omega, by omega, by omega⟩
theorem RR.below (h : RR w g6 g8 k A n c d) (hb : Below w.heap.size w w') : RR w' g6 g8 k A n c d :=
  ⟨h.R.below hb h.R.lt, h.D.below' hb (fun b hb => Nat.lt_trans hb.2 h.R.lt), h.c1, h.c2, h.gg⟩
theorem RR.grown (h : RR w g6 g8 k A n c d) {r : Nat} (hg : w.grownBy w' (some r)) (hr : r ≤ g6 ∨ g8 < r) : RR w' g6 g8 k A n c d :=
  have a1 := h.gg
  ⟨h.R.grown hg (fun r e => by cases e; omega), h.D.grown hg (fun b hb => ⟨Nat.lt_trans hb.2 h.R.lt, fun e => by injection e with e; omega⟩) (fun _ hb => hb), h.c1, h.c2, h.gg⟩
end
/-- What Read gives. -/
def ReadGives (w : World) (ch b : List UInt8) (e : Ending) (w' : World) : Prop :=
  (readE ch b = 0 → ∃ A c, e = .returned (.tuple #[vR (readK b) A (readD b).length c, .int .i64 (sizeR (readD b).length : Int), .agg (bcs (nextL ch (readK b) (readD b))).toArray, .int .i64 0]) ∧ Src w' (fun g => w.heap.size ≤ g ∧ g < w'.heap.size) A (readD b).length (bcs (readD b)) ∧ (readD b).length ≤ c ∧ c ≤ maxLen) ∧
  (readE ch b ≠ 0 → e = .returned (.tuple #[zR, .int .i64 0, .agg (bcs (List.replicate 32 0)).toArray, .int .i64 (readE ch b : Int)])) ∧ Below w.heap.size w w'
theorem u26 : Try.prog.underlying 26 = some (.slice (Try.prog.elem 26)) := by kernel_rfl
theorem el26 : Try.prog.elem 26 = 5 := by kernel_rfl
theorem exec_sl {a : Act} {w : World} {o : Oper} {x y z : Operand} (ho : o.op = .slice 26 x (some y) (some z) none) {A : Option Addr} {n c l h : Nat} (hx : a.eval x = .slice A n c) (hy : a.eval y = .int .i64 (l : Int)) (hz : a.eval z = .int .i64 (h : Int)) (h1 : l ≤ h) (h2 : h ≤ c) (h3 : l < c) :
    (execOp a.eval o).run Try.prog w = .ok (.value (.slice (A.map (·.add l)) (h - l) (c - l))) w := by
  have e1 := run_slice_lh (P := Try.prog) (t := 26) w A n c u26 .i64 .i64 (l : Int) (h : Int) (by omega) (by omega) (by omega)
  rw [el26, sz5] at e1
  unfold execOp
  simp only [ho, Option.map_some, Option.map_none, Sem.run_bind, hx, hy, hz, run_sliceAt_slice _ _ _ _ _ _ u26, e1, Result.andThen_ok, Sem.run_pure]
  simp only [sliced, Int.toNat_natCast, Nat.mul_one]
  rw [if_neg (by omega)]

set_option maxRecDepth 100000 in
set_option maxHeartbeats 4000000 in
theorem recread_any (w : World) (S : Nat → Prop) (ch : List UInt8) (hl : ch.length = 32) (A : Option Addr) (n c : Nat) (b : List UInt8) (hs : Src w S A n (bcs b)) (hS : ∀ b, S b → b < w.heap.size) (hc : n ≤ c ∧ c ≤ maxLen) (hn : n ≤ 1000000000) :
    Calls Try.prog 9 #[.agg (bcs ch).toArray, .slice A n c] w (ReadGives w ch b) := by
  have hbl := src_len hs
  have CU := Lib.hid (fun (W : World) (h : Src W S A n (bcs b)) (h2 : ∀ b, S b → b < W.heap.size) => unbound_any W S A n c b h h2 hc hn)
  have HSD := Lib.hid hs
  have HL := Lib.hid hl
  obtain ⟨hc1, hc2⟩ := hc
  clear hs
  go_enter Try.func9, Try.ntmps9
  go_wp2_with (first | (with_reducible refine wpList_box_row rfl 23 _ rfl _ rfl ?_; intro w1 hh1 hz1 hg1; have HC1 := Lib.hid (DAt.mk hh1 HL.out); have HB1 := Lib.hid (below_of_grownBy hg1); have HZ1 := Lib.hid hz1; clear hg1 hh1 hz1) | ((with_reducible show wpList _ _ _ (⟨some 4, .alloc 31, _, _, _, _⟩ :: _) _ _); refine wpList_alloc_row rfl 31 rfl zR zero31 ?_; intro w2 hh2 hz2 hg2; have HR2 := Lib.hid (RAt.mk (k := 0) (A := none) (n := 0) (c := 0) hh2); have HB2 := Lib.hid (below_of_grownBy hg2); have HZ2 := Lib.hid hz2; clear hg2 hh2 hz2) | ((with_reducible show wpList _ _ _ (⟨some 6, .alloc 23, _, _, _, _⟩ :: _) _ _); refine wpList_alloc_row rfl 23 rfl (.agg (zbs 32)) zero23 ?_; intro w3 hh3 hz3 hg3; have HO := Lib.hid (DAt.mk (ch := List.replicate 32 0) hh3 (by simp)); have HB3' := Lib.hid (below_of_grownBy hg3); have HZ3 := Lib.hid hz3; have H3 := Lib.hid (RB.start hS HSD.out HC1.out HR2.out HO.out HB1.out HB2.out HB3'.out HZ1.out HZ2.out HZ3.out); clear hg3 hh3 hz3 HO HC1 HR2 HB1 HB2 HB3'))
  refine (CU.out w3 H3.out.I (fun b hb => Nat.lt_of_lt_of_le (hS b hb) H3.out.B.size)).mono ?_
  rintro e4 w4 ⟨hu0, hu1, hb4⟩
  have H4 := Lib.hid (H3.out.below hb4)
  have hg63 : w2.heap.size < w3.heap.size := H3.out.O6.lt
  generalize w1.heap.size = g4 at *
  generalize w2.heap.size = g6 at *
  by_cases hue : unbE b = 0
  · obtain ⟨A4, c4, rfl, hs4, hc4, hm4⟩ := hu0 hue
    have hs4' : Src w4 (fun b => g6 < b ∧ b < w4.heap.size) A4 (readD b).length (bcs (readD b)) := hs4.weak (fun b hb => ⟨by omega, hb.2⟩)
    have hnn : (readD b).length ≤ 8192 := by have := (unb_ok hue).1; simp [okR] at this; exact this.2
    have hsn := (unb_ok hue).2.2.1
    rw [hbl] at hsn
    have hok := (unb_ok hue).1
    have hre : readE ch b = if (b.drop (sizeR (readD b).length - 8)).take 8 = (nextL ch (readK b) (readD b)).take 8 then 0 else 4 := by
      unfold readE; rw [if_neg (by omega)]
    have hg64 : g6 < w4.heap.size := H4.out.O6.lt
    unfold ReadGives
    have HNL := Lib.hid (nextL_len ch (readK b) (readD b))
    generalize hD : (readD b) = dd at *
    generalize hK : (readK b) = kk at *
    generalize hdn : dd.length = dn at *
    generalize hEE : readE ch b = ee at *
    have HDD := Lib.hid hD
    have HKK := Lib.hid hK
    have HEE := Lib.hid hEE
    have HRE := Lib.hid hre
    have HS4 := Lib.hid hs4'
    have HM4 := Lib.hid (And.intro hc4 hm4)
    have HDN := Lib.hid hdn
    have HG64 := Lib.hid hg64
    have CS := Lib.hid (fun W => size_any W kk A4 dn c4 (by omega))
    have CN := Lib.hid (fun (W : World) (h : Src W (fun b => g6 < b ∧ b < w4.heap.size) A4 dn (bcs dd)) (h2 : w4.heap.size ≤ W.heap.size) => next_any W _ ch hl kk A4 dn c4 dd h (fun b hb => Nat.lt_of_lt_of_le hb.2 h2) HM4.out (by omega))
    rw [hok] at CS
    simp only [if_true] at CS
    clear hs4 hs4' hc4 hm4 hu0 hu1 CU hb4 hg63 hg64 hre hue hok hK hD hEE H3 HSD hdn
    unfold vR at *
    go_wp2_with (first | ((with_reducible show wpList _ _ _ (⟨some 8, .alloc 31, _, _, _, _⟩ :: _) _ _); refine wpList_alloc_row rfl 31 rfl zR zero31 ?_; intro w5 hh5 hz5 hg5; have HE5 := Lib.hid (RAt.mk (k := 0) (A := none) (n := 0) (c := 0) hh5); have H5 := Lib.hid (H4.out.below (below_of_grownBy hg5)); have HS5 := Lib.hid (HS4.out.below' (below_of_grownBy hg5) (fun b hb => hb.2)); have HZ5 := Lib.hid hz5; clear hg5 hh5 hz5) | ((with_reducible show wpList _ _ _ (⟨none, .store 31 (.tmp 8) (.tmp 15), _, _, _, _⟩ :: _) _ _); refine wpList_store_all rfl 31 (.tmp 8) (.tmp 15) rfl w4.heap.size rfl #[.int .u8 (kk.toNat : Int), .slice A4 dn c4] rfl 31 _ HE5.out.row (by rw [size31]; rfl) rfl (by intro u hu; simp at hu; rcases hu with rfl | rfl <;> rfl) ?_; intro w6 hh6 hg6 hz6; have H6 := Lib.hid (H5.out.grown hg6 HG64.out); have HR6 := Lib.hid (RR.mk (RAt.mk hh6) (HS5.out.grown hg6 (fun b hb => ⟨by have := HZ5.out; omega, fun e => by injection e with e; omega⟩) (fun _ hb => hb)) HM4.out.1 HM4.out.2 HG64.out); clear hh6 hg6 hz6 HE5 HS5))
    clear H4 HS4 HZ5
    generalize w4.heap.size = g8 at *
    clear H5
    have HN8 : Hid (8 ≤ sizeR dn ∧ sizeR dn ≤ n ∧ n ≤ c ∧ n ≤ 1000000000) := ⟨by unfold sizeR; omega, hsn, hc1, hn⟩
    rename_i K hK
    have TAIL : ∀ (g11 : Nat) (w7 : World), RB w w7 w.heap.size g4 g6 ch S A n b → RR w7 g6 g8 kk A4 dn c4 dd → DAt w7 g11 (nextL ch kk dd) → g8 < g11 → K { tmps := #[.agg (bcs ch).toArray, .slice A n c, .pointer (some ⟨w.heap.size, 0, none⟩), undef, .pointer (some ⟨g4, 0, none⟩), .int .i64 0, .pointer (some ⟨g6, 0, none⟩), .int .i64 0, .pointer (some ⟨g8, 0, none⟩), .int .i64 0, .int .i64 (sizeR dn : Int), .pointer (some ⟨g11, 0, none⟩), .tuple #[.agg #[.int .u8 (kk.toNat : Int), .slice A4 dn c4], .int .i64 0], .slice A n c, .tuple #[.agg #[.int .u8 (kk.toNat : Int), .slice A4 dn c4], .int .i64 0], .agg #[.int .u8 (kk.toNat : Int), .slice A4 dn c4], .int .i64 0, .int .i64 0, .bool false, undef, undef, undef, .agg #[.int .u8 (kk.toNat : Int), .slice A4 dn c4], .int .i64 (sizeR dn : Int), .agg (bcs ch).toArray, .agg #[.int .u8 (kk.toNat : Int), .slice A4 dn c4], .agg (bcs (nextL ch kk dd)).toArray, undef, undef, undef, undef, undef, undef, undef, undef, undef, undef, undef, undef, undef], defers := [] } w7 := by
      intro g11 w7 h1 h2 h3 h4
      refine hK _ _ ?_
      have HSA : Hid (Src w7.drew S (A.map (·.add (sizeR dn - 8))) (sizeR dn - (sizeR dn - 8)) (bcs ((b.drop (sizeR dn - 8)).take 8))) := by
        have e1 := (h1.I.drewN 1).drop_ (c := c) (sizeR dn - 8) (by have := HN8.out; omega) hc1
        rw [if_neg (by have := HN8.out; omega), ← bcs_drop] at e1
        have e2 := e1.take_ 8 (by have := HN8.out; omega)
        rw [← bcs_takeD] at e2
        rw [show sizeR dn - (sizeR dn - 8) = 8 from by have := HN8.out; omega]
        exact e2
      have HSB : Hid (Src w7.drew (· = g11) (some ⟨g11, 0, none⟩) 8 (bcs ((nextL ch kk dd).take 8))) := by
        have e1 := h3.drew.src.take_ 8 (by omega)
        rw [← bcs_takeD] at e1
        exact e1
      have HHK := Lib.hid hK
      clear hK
      go_wp2_with fail
      refine anyStart (fun _ => False) (by kernel_rfl) ?_
      refine anyTakeE (i := 0) (oi := { dst := some 27, op := Op.move (Operand.tmp 1), type := 26, pos := "read.go:21", after := #[], guard := none }) rfl (by kernel_rfl) (by kernel_rfl) (by kernel_rfl) (fun _ _ _ _ h => h) (by rfl) ?_
      apply Exists.intro
      refine ⟨fun w' hk => ?_, ?_⟩
      · go_simp <;> with_reducible rfl
      simp only [Act.put, List.setIfInBounds_toArray, List.set_cons_zero, List.set_cons_succ]
      refine anyTakeE (i := 1) (oi := { dst := some 28, op := Op.move (Operand.tmp 10), type := 3, pos := "read.go:21", after := #[], guard := none }) rfl (by kernel_rfl) (by kernel_rfl) (by kernel_rfl) (fun _ _ _ _ h => h) (by rfl) ?_
      apply Exists.intro
      refine ⟨fun w' hk => ?_, ?_⟩
      · go_simp <;> with_reducible rfl
      simp only [Act.put, List.setIfInBounds_toArray, List.set_cons_zero, List.set_cons_succ]
      refine anyTake (i := 2) (oi := { dst := some 29, op := Op.binOp BinOp.sub 3 (Operand.tmp 28) (Operand.const (Value.int IntKind.i64 8)) 3, type := 3, pos := "read.go:21", after := #[{ on := 1, ground := Ground.data }], guard := none }) (v := .int .i64 ((sizeR dn - 8 : Nat) : Int)) rfl (by kernel_rfl) (by kernel_rfl) (by kernel_rfl) (fun _ _ _ h => h) (by rfl) (fun w' hk => by go_simp; rw [show ((sizeR dn : Int) - 8) = ((sizeR dn - 8 : Nat) : Int) from by have := HN8.out; omega, i64_small _ (by have := HN8.out; omega)]) ?_
      simp only [Act.put, List.setIfInBounds_toArray, List.set_cons_zero, List.set_cons_succ]
      refine anyTakeE (i := 3) (oi := { dst := some 30, op := Op.move (Operand.tmp 10), type := 3, pos := "read.go:21", after := #[], guard := none }) rfl (by kernel_rfl) (by kernel_rfl) (by kernel_rfl) (fun _ _ _ _ h => h) (by rfl) ?_
      apply Exists.intro
      refine ⟨fun w' hk => ?_, ?_⟩
      · go_simp <;> with_reducible rfl
      simp only [Act.put, List.setIfInBounds_toArray, List.set_cons_zero, List.set_cons_succ]
      refine anyTake (i := 4) (oi := { dst := some 31, op := Op.slice 26 (Operand.tmp 27) (some (Operand.tmp 29)) (some (Operand.tmp 30)) none, type := 26, pos := "read.go:21", after := #[{ on := 0, ground := Ground.data }, { on := 2, ground := Ground.data }, { on := 3, ground := Ground.data }], guard := none }) rfl (by kernel_rfl) (by kernel_rfl) (by kernel_rfl) (fun _ _ _ h => h) (by rfl) (fun w' hk => exec_sl rfl rfl rfl rfl (by omega) (by have := HN8.out; omega) (by have := HN8.out; omega)) ?_
      simp only [Act.put, List.setIfInBounds_toArray, List.set_cons_zero, List.set_cons_succ]
      refine anyTake (i := 5) (oi := { dst := some 32, op := Op.slice 23 (Operand.tmp 11) none (some (Operand.const (Value.int IntKind.i64 8))) none, type := 26, pos := "read.go:21", after := #[], guard := none }) rfl (by kernel_rfl) (by kernel_rfl) (by kernel_rfl) (fun _ _ _ h => h) (by rfl) (fun w' hk => exec_8_23 rfl rfl) ?_
      simp only [Act.put, List.setIfInBounds_toArray, List.set_cons_zero, List.set_cons_succ]
      refine anyCall (i := 6) (oi := { dst := some 33, op := Op.call { callee := Callee.value (Operand.func 26), args := #[Operand.tmp 31, Operand.tmp 32], argTypes := #[26, 26] }, type := 4, pos := "read.go:21", after := #[{ on := 4, ground := Ground.data }, { on := 5, ground := Ground.data }], guard := none }) rfl (by kernel_rfl) (by rfl) ?_ ((equal_any w7.drew S (· = g11) (A.map (·.add (sizeR dn - 8))) (some ⟨g11, 0, none⟩) (sizeR dn - (sizeR dn - 8)) (c - (sizeR dn - 8)) 8 32 ((b.drop (sizeR dn - 8)).take 8) ((nextL ch kk dd).take 8) HSA.out HSB.out).mono ?_)
      · go_simp
      rintro e8 w8 ⟨rfl, rfl⟩
      refine ⟨_, rfl, Keeps.refl _ _, ?_⟩
      simp only [Act.put, List.setIfInBounds_toArray, List.set_cons_zero, List.set_cons_succ]
      refine anyTakeE (i := 7) (oi := { dst := some 34, op := Op.unOp UnOp.not 4 (Operand.tmp 33), type := 4, pos := "read.go:21", after := #[{ on := 6, ground := Ground.data }], guard := none }) rfl (by kernel_rfl) (by kernel_rfl) (by kernel_rfl) (fun _ _ _ _ h => h) (by rfl) ?_
      apply Exists.intro
      refine ⟨fun w' hk => ?_, ?_⟩
      · go_simp <;> with_reducible rfl
      simp only [Act.put, List.setIfInBounds_toArray, List.set_cons_zero, List.set_cons_succ]
      refine anyDone (by kernel_rfl) ?_ _
      have hbe : ((b.drop (sizeR dn - 8)).take 8 == (nextL ch kk dd).take 8) = decide (ee = 0) := by
        have := HRE.out
        by_cases hq : (b.drop (sizeR dn - 8)).take 8 = (nextL ch kk dd).take 8
        · rw [if_pos hq] at this; subst this; simp [hq]
        · rw [if_neg hq] at this; subst this; simp [hq]
      rw [hbe]
      have h1d : RB w w7.drew w.heap.size g4 g6 ch S A n b := h1.drewN 1
      by_cases he : ee = 0
      · subst he
        have H1D := Lib.hid h1d
        clear hbe
        go_wp2_with fail
        have h1d := show RB w w7.drew.drew w.heap.size g4 g6 ch S A n b from H1D.out.drewN 1
        have h2 : RR w7.drew g6 g8 kk A4 dn c4 dd := ⟨h2.R.drew, h2.D.drewN 1, h2.c1, h2.c2, h2.gg⟩
        have h3 := h3.drew
        refine anyStart (fun b => b ≤ g6) (by kernel_rfl) ?_
        refine anyTake (i := 0) (oi := { dst := some 37, op := Op.load 31 (Operand.tmp 8), type := 31, pos := "read.go:24", after := #[], guard := none }) rfl (by kernel_rfl) (by kernel_rfl) (by kernel_rfl) (fun _ _ _ h => h) (by rfl) (fun w' hk => exec_rec rfl rfl (h2.R.drew.keeps hk (by have := HG64.out; omega))) ?_
        simp only [Act.put, List.setIfInBounds_toArray, List.set_cons_zero, List.set_cons_succ]
        refine anyTakeE (i := 1) (oi := { dst := some 38, op := Op.move (Operand.tmp 10), type := 3, pos := "read.go:24", after := #[{ on := 3, ground := Ground.gcOnly Departure.lateStores }], guard := none }) rfl (by kernel_rfl) (by kernel_rfl) (by kernel_rfl) (fun _ _ _ _ h => h) (by rfl) ?_
        apply Exists.intro
        refine ⟨fun w' hk => ?_, ?_⟩
        · go_simp <;> with_reducible rfl
        simp only [Act.put, List.setIfInBounds_toArray, List.set_cons_zero, List.set_cons_succ]
        refine anyTake (i := 2) (oi := { dst := some 39, op := Op.load 23 (Operand.tmp 11), type := 23, pos := "read.go:24", after := #[{ on := 4, ground := Ground.gcOnly Departure.lateStores }], guard := none }) rfl (by kernel_rfl) (by kernel_rfl) (by kernel_rfl) (fun _ _ _ h => h) (by rfl) (fun w' hk => exec_dig rfl rfl (h3.drew.keeps hk (by have := HG64.out; omega))) ?_
        simp only [Act.put, List.setIfInBounds_toArray, List.set_cons_zero, List.set_cons_succ]
        refine anyStoreR (i := 3) (oi := { dst := none, op := Op.store 31 (Operand.tmp 4) (Operand.tmp 37), type := 0, pos := "read.go:24", after := #[{ on := 0, ground := Ground.data }, { on := 0, ground := Ground.phase }, { on := 1, ground := Ground.textOnly Departure.lateStores }, { on := 2, ground := Ground.textOnly Departure.lateStores }], guard := none }) rfl (by kernel_rfl) (by rfl) (.tmp 4) (.tmp 37) rfl rfl rfl (k0 := 0) (A0 := none) (n0 := 0) (c0 := 0) h1d.O4 (Nat.le_of_lt h1d.d46) ?_
        intro w10 hd10 hg10 hz10
        simp only [Act.put, List.setIfInBounds_toArray, List.set_cons_zero, List.set_cons_succ]
        refine anyTakeE (i := 4) (oi := { dst := some 5, op := Op.assign (Operand.tmp 38), type := 3, pos := "read.go:24", after := #[{ on := 1, ground := Ground.data }, { on := 3, ground := Ground.chain }, { on := 0, ground := Ground.phase }, { on := 1, ground := Ground.phase }, { on := 2, ground := Ground.textOnly Departure.lateStores }, { on := 3, ground := Ground.phase }], guard := none }) rfl (by kernel_rfl) (by kernel_rfl) (by kernel_rfl) (fun _ _ _ _ h => h) (by rfl) ?_
        apply Exists.intro
        refine ⟨fun w' hk => ?_, ?_⟩
        · go_simp <;> with_reducible rfl
        simp only [Act.put, List.setIfInBounds_toArray, List.set_cons_zero, List.set_cons_succ]
        refine anyStoreD (i := 5) (oi := { dst := none, op := Op.store 23 (Operand.tmp 6) (Operand.tmp 39), type := 0, pos := "read.go:24", after := #[{ on := 2, ground := Ground.data }, { on := 4, ground := Ground.chain }, { on := 0, ground := Ground.phase }, { on := 1, ground := Ground.phase }, { on := 2, ground := Ground.phase }, { on := 3, ground := Ground.phase }, { on := 4, ground := Ground.phase }], guard := none }) rfl (by kernel_rfl) (by rfl) (.tmp 6) (.tmp 39) rfl rfl rfl (h1d.O6.grown hg10 (fun r e => by injection e with e; have := h1d.d46; omega)) HNL.out (Nat.le_refl _) ?_
        intro w11 hd11 hg11 hz11
        simp only [Act.put, List.setIfInBounds_toArray, List.set_cons_zero, List.set_cons_succ]
        refine anyTakeE (i := 6) (oi := { dst := some 7, op := Op.assign (Operand.const (Value.int IntKind.i64 0)), type := 27, pos := "read.go:24", after := #[{ on := 5, ground := Ground.chain }, { on := 0, ground := Ground.phase }, { on := 1, ground := Ground.phase }, { on := 2, ground := Ground.phase }, { on := 3, ground := Ground.phase }, { on := 4, ground := Ground.phase }, { on := 5, ground := Ground.phase }], guard := none }) rfl (by kernel_rfl) (by kernel_rfl) (by kernel_rfl) (fun _ _ _ _ h => h) (by rfl) ?_
        apply Exists.intro
        refine ⟨fun w' hk => ?_, ?_⟩
        · go_simp <;> with_reducible rfl
        simp only [Act.put, List.setIfInBounds_toArray, List.set_cons_zero, List.set_cons_succ]
        refine anyDone (by kernel_rfl) ?_ _
        go_wp2
        have hd10' := hd10.grown hg11 (fun r e => by injection e with e; have := h1d.d46; omega)
        have hl2 := h1d.l2
        have hd24 := h1d.d24
        have hd46 := h1d.d46
        have h2z : RR w11 g6 g8 kk A4 dn c4 dd := RR.grown (RR.grown ⟨h2.R.drew, h2.D.drewN 1, h2.c1, h2.c2, h2.gg⟩ hg10 (.inl (by omega))) hg11 (.inl (Nat.le_refl _))
        refine bodyPost_ret (results_ctct rfl _ _ g4 g6 31 23 #[.int .u8 (kk.toNat : Int), .slice A4 dn c4] (bcs (nextL ch kk dd)).toArray (0, 0) (0, 0) _ _ _ _ rfl hd10'.row rfl rfl hd11.row rfl Try.underlying31 rfl (by rw [size31]; rfl) under23 rfl hd11.size) rfl ?_
        refine ⟨fun _ => ⟨A4, c4, by rw [HDD.out, HKK.out, HDN.out]; rfl, ?_, by rw [HDD.out, HDN.out]; exact HM4.out.1, HM4.out.2⟩, fun h => absurd HEE.out h, ?_⟩
        · rw [HDD.out, HDN.out]
          refine h2z.D.weak (fun b hb => ⟨by have := hb.1; omega, Nat.lt_trans hb.2 h2z.R.lt⟩)
        · exact (h1d.B.grown hg10 h1d.B.size (fun r e => by injection e with e; omega)).grown hg11 (Nat.le_trans h1d.B.size hg10.size) (fun r e => by injection e with e; omega)
      · have he4 : ee = 4 := by have := HRE.out; split at this <;> omega
        subst he4
        have H1D := Lib.hid h1d
        have hz1 := build31z
        have hz2 := build23
        clear hbe
        go_wp2_with (first | ((with_reducible show wpList _ _ _ (⟨none, .store 31 (.tmp 4) (.tmp 35), _, _, _, _⟩ :: _) _ _); refine wpList_store_all rfl 31 (.tmp 4) (.tmp 35) rfl g4 rfl #[.int .u8 0, .slice none 0 0] rfl 31 _ H1D.out.O4.row (by rw [size31]; rfl) rfl (by intro u hu; simp at hu; rcases hu with rfl | rfl <;> rfl) ?_; intro w10 hh10 hg10 hz10; have H10 := Lib.hid hh10; have G10 := Lib.hid hg10; have O10 := Lib.hid (H1D.out.O6.grown hg10 (fun r e => by injection e with e; have := H1D.out.d46; omega)); clear hh10 hg10 hz10) | ((with_reducible show wpList _ _ _ (⟨none, .store 23 (.tmp 6) (.tmp 36), _, _, _, _⟩ :: _) _ _); refine wpList_store_all rfl 23 (.tmp 6) (.tmp 36) rfl g6 rfl (zbs 32) rfl 23 _ O10.out.row (by rw [size23]; rfl) rfl (by rw [bcs_zero]; simpa using bcs_one _) ?_; intro w11 hh11 hg11 hz11; have H11 := Lib.hid hh11; have G11 := Lib.hid hg11; clear hh11 hg11 hz11))
        have hd24 := H1D.out.d24
        have hd46 := H1D.out.d46
        have hl2 := H1D.out.l2
        have hlt4 : g4 < w10.heap.size := (Array.getElem?_eq_some_iff.1 H10.out).1
        refine bodyPost_ret (results_ctct rfl _ _ g4 g6 31 23 #[.int .u8 0, .slice none 0 0] (bcs (List.replicate 32 0)).toArray (0, 0) (0, 0) _ _ _ _ rfl ((G11.out.block g4 hlt4 (fun e => by injection e with e; omega)).trans H10.out) rfl rfl H11.out rfl Try.underlying31 rfl (by rw [size31]; rfl) under23 rfl (by rw [size23]; rfl)) rfl ?_
        refine ⟨fun h => absurd (HEE.out.symm.trans h) (by omega), fun _ => by rw [HEE.out]; rfl, ?_⟩
        exact (H1D.out.B.grown G10.out H1D.out.B.size (fun r e => by injection e with e; omega)).grown G11.out (Nat.le_trans H1D.out.B.size G10.out.size) (fun r e => by injection e with e; omega)
    clear hK
    refine anyStart (fun b => g8 < b) (by kernel_rfl) ?_
    have HQ7 := Lib.hid (show RB w w6.drew w.heap.size g4 g6 ch S A n b from H6.out.drewN 1)
    have HR7 := Lib.hid (show RR w6.drew g6 g8 kk A4 dn c4 dd from ⟨HR6.out.R.drew, HR6.out.D.drewN 1, HR6.out.c1, HR6.out.c2, HR6.out.gg⟩)
    clear H6 HR6
    generalize w6.drew = w7 at *
    refine anyTake (i := 0) (oi := { dst := some 22, op := Op.load 31 (Operand.tmp 8), type := 31, pos := "read.go:20", after := #[], guard := none }) rfl (by kernel_rfl) (by kernel_rfl) (by kernel_rfl) (fun _ _ _ h => h) (by rfl) (fun w' hk => exec_rec rfl rfl (HR7.out.R.keeps hk (Nat.lt_irrefl _))) ?_
    simp only [Act.put, List.setIfInBounds_toArray, List.set_cons_zero, List.set_cons_succ]
    refine anyTake (i := 2) (oi := { dst := some 24, op := Op.load 23 (Operand.tmp 2), type := 23, pos := "read.go:20", after := #[], guard := none }) rfl (by kernel_rfl) (by kernel_rfl) (by kernel_rfl) (fun _ _ _ h => h) (by rfl) (fun w' hk => exec_dig rfl rfl (HQ7.out.C.keeps hk (by have := HQ7.out.d24; have := HQ7.out.d46; have := HG64.out; omega))) ?_
    simp only [Act.put, List.setIfInBounds_toArray, List.set_cons_zero, List.set_cons_succ]
    refine anyTake (i := 3) (oi := { dst := some 25, op := Op.load 31 (Operand.tmp 8), type := 31, pos := "read.go:20", after := #[], guard := none }) rfl (by kernel_rfl) (by kernel_rfl) (by kernel_rfl) (fun _ _ _ h => h) (by rfl) (fun w' hk => exec_rec rfl rfl (HR7.out.R.keeps hk (Nat.lt_irrefl _))) ?_
    simp only [Act.put, List.setIfInBounds_toArray, List.set_cons_zero, List.set_cons_succ]
    refine anyEach [1, 5] (by kernel_rfl) (by simp) (fun i hi => ?_)
    have hi' : i = 1 ∨ i = 5 := by simpa using hi
    clear hi
    rcases hi' with rfl | rfl
    · refine wpOp_call (oi := { dst := some 23, op := Op.call { callee := Callee.value (Operand.func 14), args := #[Operand.tmp 22], argTypes := #[31] }, type := 3, pos := "read.go:20", after := #[{ on := 0, ground := Ground.data }], guard := none }) rfl (by rfl) ?_ ((CS.out w7).mono ?_)
      · first | (go_simp; done) | (go_simp; rfl)
      rintro e8 w8 ⟨rfl, hb8⟩
      have HQ8 := Lib.hid (HQ7.out.below hb8)
      have HR8 := Lib.hid (HR7.out.below hb8)
      refine ⟨_, rfl, Keeps.of_below hb8, ?_⟩
      simp only [Act.put, List.setIfInBounds_toArray, List.set_cons_zero, List.set_cons_succ]
      clear hb8
      refine anyEach [4, 5] (by kernel_rfl) (by simp) (fun i hi => ?_)
      have hi' : i = 4 ∨ i = 5 := by simpa using hi
      clear hi
      rcases hi' with rfl | rfl
      · refine wpOp_call (oi := { dst := some 26, op := Op.call { callee := Callee.value (Operand.func 17), args := #[Operand.tmp 24, Operand.tmp 25], argTypes := #[23, 31] }, type := 23, pos := "read.go:20", after := #[{ on := 2, ground := Ground.data }, { on := 3, ground := Ground.data }, { on := 1, ground := Ground.chain }], guard := none }) rfl (by rfl) ?_ ((CN.out w8 HR8.out.D (Nat.le_of_lt HR8.out.R.lt)).mono ?_)
        · first | (go_simp; done) | (go_simp; rfl)
        rintro e9 w9 ⟨rfl, hb9⟩
        have HQ9 := Lib.hid (HQ8.out.below hb9)
        have HR9 := Lib.hid (HR8.out.below hb9)
        refine ⟨_, rfl, Keeps.of_below hb9, ?_⟩
        simp only [Act.put, List.setIfInBounds_toArray, List.set_cons_zero, List.set_cons_succ]
        clear hb9
        refine anyVal (i := 5) (oi := { dst := some 11, op := Op.alloc 23, type := 0, pos := "read.go:20", after := #[], guard := none }) rfl (by kernel_rfl) (by rfl) (exec_alloc 23 rfl (.agg (zbs 32)) zero23 w9) (Keeps.of_below (below_alloc _ _)) ?_
        simp only [Act.put, List.setIfInBounds_toArray, List.set_cons_zero, List.set_cons_succ]
        have hE10 : DAt (w9.alloc (.cells (zbs 32) 23)) w9.heap.size (List.replicate 32 0) := ⟨heap_alloc_new w9 _, by simp⟩
        have hb10 := below_alloc w9 (.cells (zbs 32) 23)
        have HLT := Lib.hid HR9.out.R.lt
        have HQ10 := Lib.hid (HQ9.out.below hb10)
        have HR10 := Lib.hid (HR9.out.below hb10)
        have HE10 := Lib.hid hE10
        clear hE10 hb10 HQ9 HR9
        change wpAnyR _ _ _ _ _ _ _ _ (w9.alloc (.cells (zbs 32) 23))
        generalize w9.alloc (.cells (zbs 32) 23) = w10 at *
        generalize w9.heap.size = g11 at *
        refine anyTakeE (i := 6) (oi := { dst := some 10, op := Op.assign (Operand.tmp 23), type := 3, pos := "read.go:20", after := #[{ on := 1, ground := Ground.data }, { on := 4, ground := Ground.chain }, { on := 0, ground := Ground.phase }, { on := 1, ground := Ground.phase }, { on := 2, ground := Ground.textOnly Departure.lateStores }, { on := 3, ground := Ground.textOnly Departure.lateStores }, { on := 4, ground := Ground.textOnly Departure.lateStoresUnsure }, { on := 5, ground := Ground.phase }], guard := none }) rfl (by kernel_rfl) (by kernel_rfl) (by kernel_rfl) (fun _ _ _ _ h => h) (by rfl) ?_
        apply Exists.intro
        refine ⟨fun w' hk => ?_, ?_⟩
        · go_simp <;> with_reducible rfl
        simp only [Act.put, List.setIfInBounds_toArray, List.set_cons_zero, List.set_cons_succ]
        refine anyStoreD (i := 7) (oi := { dst := none, op := Op.store 23 (Operand.tmp 11) (Operand.tmp 26), type := 0, pos := "read.go:20", after := #[{ on := 5, ground := Ground.data }, { on := 4, ground := Ground.data }, { on := 6, ground := Ground.chain }, { on := 0, ground := Ground.phase }, { on := 1, ground := Ground.phase }, { on := 2, ground := Ground.phase }, { on := 3, ground := Ground.phase }, { on := 4, ground := Ground.phase }, { on := 5, ground := Ground.phase }, { on := 6, ground := Ground.phase }], guard := none }) rfl (by kernel_rfl) (by rfl) (.tmp 11) (.tmp 26) rfl rfl rfl HE10.out HNL.out HLT.out ?_
        intro w20 hd20 hg20 hz20
        simp only [Act.put, List.setIfInBounds_toArray, List.set_cons_zero, List.set_cons_succ]
        refine anyDone (by kernel_rfl) ?_ _
        exact TAIL g11 w20 (HQ10.out.grown hg20 (Nat.lt_trans HG64.out HLT.out)) (HR10.out.grown hg20 (.inr HLT.out)) hd20 HLT.out
      · refine wpOp_value (oi := { dst := some 11, op := Op.alloc 23, type := 0, pos := "read.go:20", after := #[], guard := none }) rfl (by rfl) (exec_alloc 23 rfl (.agg (zbs 32)) zero23 w8) ⟨Keeps.of_below (below_alloc _ _), ?_⟩
        simp only [Act.put, List.setIfInBounds_toArray, List.set_cons_zero, List.set_cons_succ]
        have hE9 : DAt (w8.alloc (.cells (zbs 32) 23)) w8.heap.size (List.replicate 32 0) := ⟨heap_alloc_new w8 _, by simp⟩
        have hb9 := below_alloc w8 (.cells (zbs 32) 23)
        have HLT := Lib.hid HR8.out.R.lt
        have HQ9 := Lib.hid (HQ8.out.below hb9)
        have HR9 := Lib.hid (HR8.out.below hb9)
        have HE9 := Lib.hid hE9
        clear hE9 hb9 HQ8 HR8
        change wpAnyR _ _ _ _ _ _ _ _ (w8.alloc (.cells (zbs 32) 23))
        generalize w8.alloc (.cells (zbs 32) 23) = w9 at *
        generalize w8.heap.size = g11 at *
        refine anyCall (i := 4) (oi := { dst := some 26, op := Op.call { callee := Callee.value (Operand.func 17), args := #[Operand.tmp 24, Operand.tmp 25], argTypes := #[23, 31] }, type := 23, pos := "read.go:20", after := #[{ on := 2, ground := Ground.data }, { on := 3, ground := Ground.data }, { on := 1, ground := Ground.chain }], guard := none }) rfl (by kernel_rfl) (by rfl) ?_ ((CN.out w9 HR9.out.D (Nat.le_of_lt HR9.out.R.lt)).mono ?_)
        · first | (go_simp; done) | (go_simp; rfl)
        rintro e10 w10 ⟨rfl, hb10⟩
        have HQ10 := Lib.hid (HQ9.out.below hb10)
        have HR10 := Lib.hid (HR9.out.below hb10)
        have HE10 := Lib.hid (HE9.out.below hb10 HE9.out.lt)
        refine ⟨_, rfl, Keeps.of_below hb10, ?_⟩
        simp only [Act.put, List.setIfInBounds_toArray, List.set_cons_zero, List.set_cons_succ]
        clear hb10
        refine anyTakeE (i := 6) (oi := { dst := some 10, op := Op.assign (Operand.tmp 23), type := 3, pos := "read.go:20", after := #[{ on := 1, ground := Ground.data }, { on := 4, ground := Ground.chain }, { on := 0, ground := Ground.phase }, { on := 1, ground := Ground.phase }, { on := 2, ground := Ground.textOnly Departure.lateStores }, { on := 3, ground := Ground.textOnly Departure.lateStores }, { on := 4, ground := Ground.textOnly Departure.lateStoresUnsure }, { on := 5, ground := Ground.phase }], guard := none }) rfl (by kernel_rfl) (by kernel_rfl) (by kernel_rfl) (fun _ _ _ _ h => h) (by rfl) ?_
        apply Exists.intro
        refine ⟨fun w' hk => ?_, ?_⟩
        · go_simp <;> with_reducible rfl
        simp only [Act.put, List.setIfInBounds_toArray, List.set_cons_zero, List.set_cons_succ]
        refine anyStoreD (i := 7) (oi := { dst := none, op := Op.store 23 (Operand.tmp 11) (Operand.tmp 26), type := 0, pos := "read.go:20", after := #[{ on := 5, ground := Ground.data }, { on := 4, ground := Ground.data }, { on := 6, ground := Ground.chain }, { on := 0, ground := Ground.phase }, { on := 1, ground := Ground.phase }, { on := 2, ground := Ground.phase }, { on := 3, ground := Ground.phase }, { on := 4, ground := Ground.phase }, { on := 5, ground := Ground.phase }, { on := 6, ground := Ground.phase }], guard := none }) rfl (by kernel_rfl) (by rfl) (.tmp 11) (.tmp 26) rfl rfl rfl HE10.out HNL.out HLT.out ?_
        intro w20 hd20 hg20 hz20
        simp only [Act.put, List.setIfInBounds_toArray, List.set_cons_zero, List.set_cons_succ]
        refine anyDone (by kernel_rfl) ?_ _
        exact TAIL g11 w20 (HQ10.out.grown hg20 (Nat.lt_trans HG64.out HLT.out)) (HR10.out.grown hg20 (.inr HLT.out)) hd20 HLT.out
    · refine wpOp_value (oi := { dst := some 11, op := Op.alloc 23, type := 0, pos := "read.go:20", after := #[], guard := none }) rfl (by rfl) (exec_alloc 23 rfl (.agg (zbs 32)) zero23 w7) ⟨Keeps.of_below (below_alloc _ _), ?_⟩
      simp only [Act.put, List.setIfInBounds_toArray, List.set_cons_zero, List.set_cons_succ]
      have hE8 : DAt (w7.alloc (.cells (zbs 32) 23)) w7.heap.size (List.replicate 32 0) := ⟨heap_alloc_new w7 _, by simp⟩
      have hb8 := below_alloc w7 (.cells (zbs 32) 23)
      have HLT := Lib.hid HR7.out.R.lt
      have HQ8 := Lib.hid (HQ7.out.below hb8)
      have HR8 := Lib.hid (HR7.out.below hb8)
      have HE8 := Lib.hid hE8
      clear hE8 hb8 HQ7 HR7
      change wpAnyR _ _ _ _ _ _ _ _ (w7.alloc (.cells (zbs 32) 23))
      generalize w7.alloc (.cells (zbs 32) 23) = w8 at *
      generalize w7.heap.size = g11 at *
      refine anyCall (i := 1) (oi := { dst := some 23, op := Op.call { callee := Callee.value (Operand.func 14), args := #[Operand.tmp 22], argTypes := #[31] }, type := 3, pos := "read.go:20", after := #[{ on := 0, ground := Ground.data }], guard := none }) rfl (by kernel_rfl) (by rfl) ?_ ((CS.out w8).mono ?_)
      · first | (go_simp; done) | (go_simp; rfl)
      rintro e9 w9 ⟨rfl, hb9⟩
      have HQ9 := Lib.hid (HQ8.out.below hb9)
      have HR9 := Lib.hid (HR8.out.below hb9)
      have HE9 := Lib.hid (HE8.out.below hb9 HE8.out.lt)
      refine ⟨_, rfl, Keeps.of_below hb9, ?_⟩
      simp only [Act.put, List.setIfInBounds_toArray, List.set_cons_zero, List.set_cons_succ]
      clear hb9
      refine anyCall (i := 4) (oi := { dst := some 26, op := Op.call { callee := Callee.value (Operand.func 17), args := #[Operand.tmp 24, Operand.tmp 25], argTypes := #[23, 31] }, type := 23, pos := "read.go:20", after := #[{ on := 2, ground := Ground.data }, { on := 3, ground := Ground.data }, { on := 1, ground := Ground.chain }], guard := none }) rfl (by kernel_rfl) (by rfl) ?_ ((CN.out w9 HR9.out.D (Nat.le_of_lt HR9.out.R.lt)).mono ?_)
      · first | (go_simp; done) | (go_simp; rfl)
      rintro e10 w10 ⟨rfl, hb10⟩
      have HQ10 := Lib.hid (HQ9.out.below hb10)
      have HR10 := Lib.hid (HR9.out.below hb10)
      have HE10 := Lib.hid (HE9.out.below hb10 HE9.out.lt)
      refine ⟨_, rfl, Keeps.of_below hb10, ?_⟩
      simp only [Act.put, List.setIfInBounds_toArray, List.set_cons_zero, List.set_cons_succ]
      clear hb10
      refine anyTakeE (i := 6) (oi := { dst := some 10, op := Op.assign (Operand.tmp 23), type := 3, pos := "read.go:20", after := #[{ on := 1, ground := Ground.data }, { on := 4, ground := Ground.chain }, { on := 0, ground := Ground.phase }, { on := 1, ground := Ground.phase }, { on := 2, ground := Ground.textOnly Departure.lateStores }, { on := 3, ground := Ground.textOnly Departure.lateStores }, { on := 4, ground := Ground.textOnly Departure.lateStoresUnsure }, { on := 5, ground := Ground.phase }], guard := none }) rfl (by kernel_rfl) (by kernel_rfl) (by kernel_rfl) (fun _ _ _ _ h => h) (by rfl) ?_
      apply Exists.intro
      refine ⟨fun w' hk => ?_, ?_⟩
      · go_simp <;> with_reducible rfl
      simp only [Act.put, List.setIfInBounds_toArray, List.set_cons_zero, List.set_cons_succ]
      refine anyStoreD (i := 7) (oi := { dst := none, op := Op.store 23 (Operand.tmp 11) (Operand.tmp 26), type := 0, pos := "read.go:20", after := #[{ on := 5, ground := Ground.data }, { on := 4, ground := Ground.data }, { on := 6, ground := Ground.chain }, { on := 0, ground := Ground.phase }, { on := 1, ground := Ground.phase }, { on := 2, ground := Ground.phase }, { on := 3, ground := Ground.phase }, { on := 4, ground := Ground.phase }, { on := 5, ground := Ground.phase }, { on := 6, ground := Ground.phase }], guard := none }) rfl (by kernel_rfl) (by rfl) (.tmp 11) (.tmp 26) rfl rfl rfl HE10.out HNL.out HLT.out ?_
      intro w20 hd20 hg20 hz20
      simp only [Act.put, List.setIfInBounds_toArray, List.set_cons_zero, List.set_cons_succ]
      refine anyDone (by kernel_rfl) ?_ _
      exact TAIL g11 w20 (HQ10.out.grown hg20 (Nat.lt_trans HG64.out HLT.out)) (HR10.out.grown hg20 (.inr HLT.out)) hd20 HLT.out
  · have hu1 := hu1 hue
    subst hu1
    have hre : readE ch b = unbE b := by unfold readE; rw [if_pos hue]
    have HRE := Lib.hid hre
    have HUE := Lib.hid hue
    clear hu0 CU hb4 hre
    have hue' : (((unbE b : Int) == 0) = false) := by simp; omega
    have hz1 := build31z
    have hz2 := build23
    have hd46 := H4.out.d46
    unfold zR at *
    go_wp2_with (first | ((with_reducible show wpList _ _ _ (⟨some 8, .alloc 31, _, _, _, _⟩ :: _) _ _); refine wpList_alloc_row rfl 31 rfl (.agg #[.int .u8 0, .slice none 0 0]) zero31 ?_; intro w5 hh5 hz5 hg5; have HE5 := Lib.hid (RAt.mk (k := 0) (A := none) (n := 0) (c := 0) hh5); have H5 := Lib.hid (H4.out.below (below_of_grownBy hg5)); clear hg5 hh5 hz5) | ((with_reducible show wpList _ _ _ (⟨none, .store 31 (.tmp 8) (.tmp 15), _, _, _, _⟩ :: _) _ _); refine wpList_store_all rfl 31 (.tmp 8) (.tmp 15) rfl w4.heap.size rfl #[.int .u8 0, .slice none 0 0] rfl 31 _ HE5.out.row (by rw [size31]; rfl) rfl (by intro u hu; simp at hu; rcases hu with rfl | rfl <;> rfl) ?_; intro w6 hh6 hg6 hz6; have H6 := Lib.hid (H5.out.grown hg6 H4.out.O6.lt); clear hh6 hg6 hz6 HE5) | ((with_reducible show wpList _ _ _ (⟨none, .store 31 (.tmp 4) (.tmp 19), _, _, _, _⟩ :: _) _ _); refine wpList_store_all rfl 31 (.tmp 4) (.tmp 19) rfl g4 rfl #[.int .u8 0, .slice none 0 0] rfl 31 _ H6.out.O4.row (by rw [size31]; rfl) rfl (by intro u hu; simp at hu; rcases hu with rfl | rfl <;> rfl) ?_; intro w10 hh10 hg10 hz10; have H10 := Lib.hid hh10; have G10 := Lib.hid hg10; have O10 := Lib.hid (H6.out.O6.grown hg10 (fun r e => by injection e with e; omega)); clear hh10 hg10 hz10) | ((with_reducible show wpList _ _ _ (⟨none, .store 23 (.tmp 6) (.tmp 20), _, _, _, _⟩ :: _) _ _); refine wpList_store_all rfl 23 (.tmp 6) (.tmp 20) rfl g6 rfl (zbs 32) rfl 23 _ O10.out.row (by rw [size23]; rfl) rfl (by rw [bcs_zero]; simpa using bcs_one _) ?_; intro w11 hh11 hg11 hz11; have H11 := Lib.hid hh11; have G11 := Lib.hid hg11; clear hh11 hg11 hz11))
    have hd24 := H6.out.d24
    have hl2 := H6.out.l2
    have hlt4 : g4 < w10.heap.size := (Array.getElem?_eq_some_iff.1 H10.out).1
    refine bodyPost_ret (results_ctct rfl _ _ g4 g6 31 23 #[.int .u8 0, .slice none 0 0] (bcs (List.replicate 32 0)).toArray (0, 0) (0, 0) _ _ _ _ rfl ((G11.out.block g4 hlt4 (fun e => by injection e with e; omega)).trans H10.out) rfl rfl H11.out rfl Try.underlying31 rfl (by rw [size31]; rfl) under23 rfl (by rw [size23]; rfl)) rfl ?_
    refine ⟨fun h => absurd h (by rw [HRE.out]; exact HUE.out), fun _ => by rw [HRE.out]; rfl, ?_⟩
    exact (H6.out.B.grown G10.out H6.out.B.size (fun r e => by injection e with e; omega)).grown G11.out (Nat.le_trans H6.out.B.size G10.out.size) (fun r e => by injection e with e; omega)
end Go.Proofs.Ytkglicidjdifkaa
