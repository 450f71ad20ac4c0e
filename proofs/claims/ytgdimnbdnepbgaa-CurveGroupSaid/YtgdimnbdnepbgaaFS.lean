/- The field's sum, difference and product of numbers. No statement is proved here. -/
import Derived.Test.YtgdimnbdnepbgaaFR
namespace Go.Proofs.Ytgdimnbdnepbgaa
open Go.RowKit
set_option linter.unusedVariables false
set_option maxRecDepth 40000

/-- The modulus. -/
def PP : Nat := 57896044618658097711785492504343953926634992332820282019728792003956564819949
/-- 2^256. -/
def TT : Nat := 115792089237316195423570985008687907853269984665640564039457584007913129639936
/-- A number as a value. -/
def vN (n : Nat) : Value := .agg (bcs (enc n)).toArray

theorem wpList_box_row {P : Program} {ops : Array Oper} {rest : List Oper} {o : Oper} {a : Act} {w : World} {Q : Exit → Act → World → Prop} (hgd : Region.wanted o (yielded ops a.tmps) = true) (elem : TypeId) (x : Operand) (ho : o.op = .box elem x) (cs : Array Value) (hx : a.eval x = .agg cs)
    (h : ∀ w', w'.heap[w.heap.size]? = some (.cells cs elem (0, 0)) → w'.heap.size = w.heap.size + 1 → w.grownBy w' none → wpList P ops Q rest (a.put o.dst (.pointer (some ⟨w.heap.size, 0, none⟩))) w') :
    wpList P ops Q (o :: rest) a w := by
  refine wpList_want hgd fun K hK => ?_
  have hrun : (Instr.box elem (.agg cs)).run P w = .ok (.pointer (some ⟨w.heap.size, 0, none⟩)) (w.alloc (.cells cs elem)) := by
    simp [Instr.box, newVar, newRow, Value.cells]
  unfold Oper.wp execOp
  simp only [ho, hx, Sem.run_bind, Sem.run_pure, Result.andThen_ok, hrun]
  exact hK _ _ (h _ (heap_alloc_new w _) (by simp) (World.grownBy_alloc w _ none))

/-- The memory of a function of two numbers: rows s, s + 1 the numbers, s + 2 the result, s + 3 and s + 4 words. -/
structure M2 (w : World) (la lb : List UInt8) (ov ow : List Nat) (w' : World) : Prop where
  a : NumAt w' w.heap.size la
  b : NumAt w' (w.heap.size + 1) lb
  r : w'.heap[w.heap.size + 2]? = some (.cells (zbs 32) 23 (0, 0))
  v : WAt w' (w.heap.size + 3) ov
  u : WAt w' (w.heap.size + 4) ow
  bel : Below w.heap.size w w'
theorem M2.setV {w : World} {la lb : List UInt8} {ov ow o : List Nat} {w' w'' : World} (h : M2 w la lb ov ow w') (hv : WAt w'' (w.heap.size + 3) o) (hk : Keeps (· = w.heap.size + 3) w' w'') : M2 w la lb o ow w'' :=
  ⟨h.a.keeps hk (by show ¬ _ = _; omega), h.b.keeps hk (by show ¬ _ = _; omega), (hk.block _ (Array.getElem?_eq_some_iff.1 h.r).1 (by show ¬ _ = _; omega)).trans h.r, hv, h.u.keeps hk (by show ¬ _ = _; omega), h.bel.trans (hk.below h.bel.size (fun k hlt => by show ¬ _ = _; omega))⟩
theorem M2.setW {w : World} {la lb : List UInt8} {ov ow o : List Nat} {w' w'' : World} (h : M2 w la lb ov ow w') (hv : WAt w'' (w.heap.size + 4) o) (hk : Keeps (· = w.heap.size + 4) w' w'') : M2 w la lb ov o w'' :=
  ⟨h.a.keeps hk (by show ¬ _ = _; omega), h.b.keeps hk (by show ¬ _ = _; omega), (hk.block _ (Array.getElem?_eq_some_iff.1 h.r).1 (by show ¬ _ = _; omega)).trans h.r, h.v.keeps hk (by show ¬ _ = _; omega), hv, h.bel.trans (hk.below h.bel.size (fun k hlt => by show ¬ _ = _; omega))⟩

/-- The memory of a function of one number: row s the number, s + 1 the result, s + 2 words. -/
structure M1 (w : World) (la : List UInt8) (ov : List Nat) (w' : World) : Prop where
  a : NumAt w' w.heap.size la
  r : w'.heap[w.heap.size + 1]? = some (.cells (zbs 32) 23 (0, 0))
  v : WAt w' (w.heap.size + 2) ov
  bel : Below w.heap.size w w'
theorem M1.setV {w : World} {la : List UInt8} {ov o : List Nat} {w' w'' : World} (h : M1 w la ov w') (hv : WAt w'' (w.heap.size + 2) o) (hk : Keeps (· = w.heap.size + 2) w' w'') : M1 w la o w'' :=
  ⟨h.a.keeps hk (by show ¬ _ = _; omega), (hk.block _ (Array.getElem?_eq_some_iff.1 h.r).1 (by show ¬ _ = _; omega)).trans h.r, hv, h.bel.trans (hk.below h.bel.size (fun k hlt => by show ¬ _ = _; omega))⟩

theorem M2.start {w : World} {la lb : List UInt8} {w1 w2 w3 w4 w5 : World} {cs4 cs5 : Array Value} (ha : la.length = 32) (hb : lb.length = 32)
    (h1 : w1.heap[w.heap.size]? = some (.cells (bcs la).toArray 23 (0, 0))) (z1 : w1.heap.size = w.heap.size + 1) (g1 : w.grownBy w1 none)
    (h2 : w2.heap[w1.heap.size]? = some (.cells (bcs lb).toArray 23 (0, 0))) (z2 : w2.heap.size = w1.heap.size + 1) (g2 : w1.grownBy w2 none)
    (h3 : w3.heap[w2.heap.size]? = some (.cells (zbs 32) 23 (0, 0))) (z3 : w3.heap.size = w2.heap.size + 1) (g3 : w2.grownBy w3 none)
    (h4 : w4.heap[w3.heap.size]? = some (.cells (zw 5) 60 (0, 0))) (z4 : w4.heap.size = w3.heap.size + 1) (g4 : w3.grownBy w4 none)
    (h5 : w5.heap[w4.heap.size]? = some (.cells (zw 5) 60 (0, 0))) (z5 : w5.heap.size = w4.heap.size + 1) (g5 : w4.grownBy w5 none) :
    M2 w la lb [0, 0, 0, 0, 0] [0, 0, 0, 0, 0] w5 := by
  have b1 := below_of_grownBy g1
  have b2 := below_of_grownBy g2
  have b3 := below_of_grownBy g3
  have b4 := below_of_grownBy g4
  have b5 := below_of_grownBy g5
  rw [show w1.heap.size = w.heap.size + 1 from z1] at h2 b2 z2
  rw [z2] at h3 b3 z3
  rw [z3] at h4 b4 z4
  rw [z4] at h5 b5 z5
  refine ⟨⟨ha, 23, ?_⟩, ⟨hb, 23, ?_⟩, ?_, ⟨rfl, 60, ?_⟩, ⟨rfl, 60, h5⟩, ?_⟩
  · exact (b5.block _ (by omega)).trans ((b4.block _ (by omega)).trans ((b3.block _ (by omega)).trans ((b2.block _ (by omega)).trans h1)))
  · exact (b5.block _ (by omega)).trans ((b4.block _ (by omega)).trans ((b3.block _ (by omega)).trans h2))
  · exact (b5.block _ (by omega)).trans ((b4.block _ (by omega)).trans h3)
  · exact (b5.block _ (by omega)).trans h4
  · exact b1.trans ((b2.mono (by omega)).trans ((b3.mono (by omega)).trans ((b4.mono (by omega)).trans (b5.mono (by omega)))))

set_option maxHeartbeats 1000000 in
theorem Add_core (la lb : List UInt8) (r : List Nat) (n : Nat) (w : World) (ha : Hid (la.length = 32)) (hb : Hid (lb.length = 32))
    (HR : Hid (∀ w', WAt w' (w.heap.size + 3) (rdw la) → WAt w' (w.heap.size + 4) (rdw lb) → Calls Try.prog 70 #[.pointer (some ⟨w.heap.size + 3, 0, none⟩), .pointer (some ⟨w.heap.size + 4, 0, none⟩)] w' (Sets (w.heap.size + 3) r w')))
    (HB : Hid (Bnd 9223372036854775808 r)) (HV : Hid (val5 r % 57896044618658097711785492504343953926634992332820282019728792003956564819949 = n)) :
    Calls Try.prog 19 #[.agg (bcs la).toArray, .agg (bcs lb).toArray] w (Gives (vN n) w) := by
  go_enter Try.func19, Try.ntmps19
  go_wp2_with (first | ((with_reducible show wpList _ _ _ (⟨some 2, .box 23 (.tmp 0), _, _, _, _⟩ :: _) _ _); go_must (refine wpList_box_row rfl 23 (.tmp 0) rfl (bcs la).toArray rfl ?_; intro w1 h1 z1 g1; have H1 := Lib.hid h1; have Z1 := Lib.hid z1; have G1 := Lib.hid g1; clear h1 z1 g1)) | ((with_reducible show wpList _ _ _ (⟨some 3, .box 23 (.tmp 1), _, _, _, _⟩ :: _) _ _); go_must (refine wpList_box_row rfl 23 (.tmp 1) rfl (bcs lb).toArray rfl ?_; intro w2 h1 z1 g1; have H2 := Lib.hid h1; have Z2 := Lib.hid z1; have G2 := Lib.hid g1; clear h1 z1 g1)) | (with_reducible refine wpList_alloc_row rfl 23 rfl (.agg (zbs 32)) zero23 ?_; intro w3 h1 z1 g1; have H3 := Lib.hid h1; have Z3 := Lib.hid z1; have G3 := Lib.hid g1; clear h1 z1 g1) | ((with_reducible show wpList _ _ _ (⟨some 5, .alloc 60, _, _, _, _⟩ :: _) _ _); go_must (refine wpList_alloc_row rfl 60 rfl (.agg (zw 5)) zero60 ?_; intro w4 h1 z1 g1; have H4 := Lib.hid h1; have Z4 := Lib.hid z1; have G4 := Lib.hid g1; clear h1 z1 g1)) | ((with_reducible show wpList _ _ _ (⟨some 6, .alloc 60, _, _, _, _⟩ :: _) _ _); go_must (refine wpList_alloc_row rfl 60 rfl (.agg (zw 5)) zero60 ?_; intro w5 h1 z1 g1; have H5 := Lib.hid h1; have Z5 := Lib.hid z1; have G5 := Lib.hid g1; clear h1 z1 g1)))
  have S : Hid (M2 w la lb [0, 0, 0, 0, 0] [0, 0, 0, 0, 0] w5) := M2.start (cs4 := #[]) (cs5 := #[]) ha.out hb.out H1.out Z1.out G1.out H2.out Z2.out G2.out H3.out Z3.out G3.out H4.out Z4.out G4.out H5.out Z5.out G5.out
  rw [show w4.heap.size = w.heap.size + 4 from by rw [Z4.out, Z3.out, Z2.out, Z1.out], show w3.heap.size = w.heap.size + 3 from by rw [Z3.out, Z2.out, Z1.out], show w2.heap.size = w.heap.size + 2 from by rw [Z2.out, Z1.out], show w1.heap.size = w.heap.size + 1 from by rw [Z1.out]]
  clear H1 Z1 G1 H2 Z2 G2 H3 Z3 G3 H4 Z4 G4 H5 Z5 G5 ha hb
  refine (read_any (w.heap.size + 3) w.heap.size _ la _ S.out.v S.out.a).mono ?_
  rintro e x1 ⟨rfl, hr, hk⟩
  have S1 := Lib.hid (S.out.setV hr hk)
  clear hr hk S
  go_wp2_with fail
  refine (read_any (w.heap.size + 4) (w.heap.size + 1) _ lb _ S1.out.u S1.out.b).mono ?_
  rintro e x2 ⟨rfl, hr, hk⟩
  have S2 := Lib.hid (S1.out.setW hr hk)
  clear hr hk S1
  go_wp2_with fail
  refine (HR.out _ S2.out.v S2.out.u).mono ?_
  rintro e x3 ⟨rfl, hr, hk⟩
  have S3 := Lib.hid (S2.out.setV hr hk)
  clear hr hk S2 HR
  go_wp2_with fail
  refine (number_any (w.heap.size + 3) r _ S3.out.v HB.out).mono ?_
  rintro e x4 ⟨rfl, hk⟩
  rw [HV.out]
  have HRow : Hid (x4.heap[w.heap.size + 2]? = some (.cells (zbs 32) 23 (0, 0))) := (hk.block _ (Array.getElem?_eq_some_iff.1 S3.out.r).1 (by show ¬ _ = _; omega)).trans S3.out.r
  have HBel : Hid (Below w.heap.size w x4) := S3.out.bel.trans (hk.below S3.out.bel.size (fun k hlt => by show ¬ _ = _; omega))
  clear hk S3 HV HB
  obtain ⟨L, hL⟩ : ∃ L, L = enc n := ⟨_, rfl⟩
  have HL : Hid (L.length = 32) := by rw [hL]; exact enc_len n
  have HLE : Hid (Value.agg (bcs L).toArray = vN n) := by rw [hL]; rfl
  rw [← hL]
  clear hL
  go_wp2_with ((with_reducible show wpList _ _ _ (⟨none, .store 23 (.tmp 4) (.tmp 10), _, _, _, _⟩ :: _) _ _); go_must (refine wpList_store_all rfl 23 (.tmp 4) (.tmp 10) rfl (w.heap.size + 2) rfl (bcs L).toArray rfl 23 _ HRow.out (by rw [List.size_toArray, bcs_len, HL.out]; exact size23) (by rw [List.size_toArray, bcs_len, HL.out]; rfl) (bcs_one _) ?_; intro x5 hh hg hz; have HH := Lib.hid hh; have HG := Lib.hid hg; clear hh hg hz))
  refine bodyPost_ret (results_cell_row rfl _ _ (w.heap.size + 2) 23 (bcs L).toArray _ _ rfl HH.out under23 rfl (by rw [List.size_toArray, bcs_len, HL.out]; exact size23)) rfl ?_
  exact ⟨by rw [HLE.out], HBel.out.grown HG.out HBel.out.size (fun r hr => by injection hr; omega)⟩

theorem Add_list (la lb : List UInt8) (ha : la.length = 32) (hb : lb.length = 32) (w : World) : Calls Try.prog 19 #[.agg (bcs la).toArray, .agg (bcs lb).toArray] w (Gives (vN ((nv la + nv lb) % PP)) w) := by
  have b1 := rdw_bnd la
  have b2 := rdw_bnd lb
  have hv := addk_val (rdw la) (rdw lb) b1.1 b2.1
  refine Add_core la lb (addk (rdw la) (rdw lb) 5) _ w ha hb ?_ ?_ ?_
  · exact Lib.hid fun w' h1 h2 => add_any _ _ _ _ w' h1 h2 (by omega) ⟨b1.1, fun i hi => Nat.lt_of_lt_of_le (b1.2 i hi) (by decide)⟩ ⟨b2.1, fun i hi => Nat.lt_of_lt_of_le (b2.2 i hi) (by decide)⟩
  · refine ⟨?_, fun i hi => ?_⟩
    · have : ∀ n, (addk (rdw la) (rdw lb) n).length = 5 := by
        intro n
        induction n with
        | zero => exact b1.1
        | succ n ih => unfold addk; rw [List.length_set]; exact ih
      exact this 5
    · rw [hv.2 i hi]
      have := b1.2 i hi
      have := b2.2 i hi
      omega
  · rw [hv.1, rdw_val, rdw_val]
    rfl


set_option maxHeartbeats 1000000 in
theorem Sub_core (la lb : List UInt8) (r : List Nat) (n : Nat) (w : World) (ha : Hid (la.length = 32)) (hb : Hid (lb.length = 32))
    (HR : Hid (∀ w', WAt w' (w.heap.size + 3) (rdw la) → WAt w' (w.heap.size + 4) (rdw lb) → Calls Try.prog 72 #[.pointer (some ⟨w.heap.size + 3, 0, none⟩), .pointer (some ⟨w.heap.size + 4, 0, none⟩)] w' (Sets (w.heap.size + 3) r w')))
    (HB : Hid (Bnd 9223372036854775808 r)) (HV : Hid (val5 r % 57896044618658097711785492504343953926634992332820282019728792003956564819949 = n)) :
    Calls Try.prog 21 #[.agg (bcs la).toArray, .agg (bcs lb).toArray] w (Gives (vN n) w) := by
  go_enter Try.func21, Try.ntmps21
  go_wp2_with (first | ((with_reducible show wpList _ _ _ (⟨some 2, .box 23 (.tmp 0), _, _, _, _⟩ :: _) _ _); go_must (refine wpList_box_row rfl 23 (.tmp 0) rfl (bcs la).toArray rfl ?_; intro w1 h1 z1 g1; have H1 := Lib.hid h1; have Z1 := Lib.hid z1; have G1 := Lib.hid g1; clear h1 z1 g1)) | ((with_reducible show wpList _ _ _ (⟨some 3, .box 23 (.tmp 1), _, _, _, _⟩ :: _) _ _); go_must (refine wpList_box_row rfl 23 (.tmp 1) rfl (bcs lb).toArray rfl ?_; intro w2 h1 z1 g1; have H2 := Lib.hid h1; have Z2 := Lib.hid z1; have G2 := Lib.hid g1; clear h1 z1 g1)) | (with_reducible refine wpList_alloc_row rfl 23 rfl (.agg (zbs 32)) zero23 ?_; intro w3 h1 z1 g1; have H3 := Lib.hid h1; have Z3 := Lib.hid z1; have G3 := Lib.hid g1; clear h1 z1 g1) | ((with_reducible show wpList _ _ _ (⟨some 5, .alloc 60, _, _, _, _⟩ :: _) _ _); go_must (refine wpList_alloc_row rfl 60 rfl (.agg (zw 5)) zero60 ?_; intro w4 h1 z1 g1; have H4 := Lib.hid h1; have Z4 := Lib.hid z1; have G4 := Lib.hid g1; clear h1 z1 g1)) | ((with_reducible show wpList _ _ _ (⟨some 6, .alloc 60, _, _, _, _⟩ :: _) _ _); go_must (refine wpList_alloc_row rfl 60 rfl (.agg (zw 5)) zero60 ?_; intro w5 h1 z1 g1; have H5 := Lib.hid h1; have Z5 := Lib.hid z1; have G5 := Lib.hid g1; clear h1 z1 g1)))
  have S : Hid (M2 w la lb [0, 0, 0, 0, 0] [0, 0, 0, 0, 0] w5) := M2.start (cs4 := #[]) (cs5 := #[]) ha.out hb.out H1.out Z1.out G1.out H2.out Z2.out G2.out H3.out Z3.out G3.out H4.out Z4.out G4.out H5.out Z5.out G5.out
  rw [show w4.heap.size = w.heap.size + 4 from by rw [Z4.out, Z3.out, Z2.out, Z1.out], show w3.heap.size = w.heap.size + 3 from by rw [Z3.out, Z2.out, Z1.out], show w2.heap.size = w.heap.size + 2 from by rw [Z2.out, Z1.out], show w1.heap.size = w.heap.size + 1 from by rw [Z1.out]]
  clear H1 Z1 G1 H2 Z2 G2 H3 Z3 G3 H4 Z4 G4 H5 Z5 G5 ha hb
  refine (read_any (w.heap.size + 3) w.heap.size _ la _ S.out.v S.out.a).mono ?_
  rintro e x1 ⟨rfl, hr, hk⟩
  have S1 := Lib.hid (S.out.setV hr hk)
  clear hr hk S
  go_wp2_with fail
  refine (read_any (w.heap.size + 4) (w.heap.size + 1) _ lb _ S1.out.u S1.out.b).mono ?_
  rintro e x2 ⟨rfl, hr, hk⟩
  have S2 := Lib.hid (S1.out.setW hr hk)
  clear hr hk S1
  go_wp2_with fail
  refine (HR.out _ S2.out.v S2.out.u).mono ?_
  rintro e x3 ⟨rfl, hr, hk⟩
  have S3 := Lib.hid (S2.out.setV hr hk)
  clear hr hk S2 HR
  go_wp2_with fail
  refine (number_any (w.heap.size + 3) r _ S3.out.v HB.out).mono ?_
  rintro e x4 ⟨rfl, hk⟩
  rw [HV.out]
  have HRow : Hid (x4.heap[w.heap.size + 2]? = some (.cells (zbs 32) 23 (0, 0))) := (hk.block _ (Array.getElem?_eq_some_iff.1 S3.out.r).1 (by show ¬ _ = _; omega)).trans S3.out.r
  have HBel : Hid (Below w.heap.size w x4) := S3.out.bel.trans (hk.below S3.out.bel.size (fun k hlt => by show ¬ _ = _; omega))
  clear hk S3 HV HB
  obtain ⟨L, hL⟩ : ∃ L, L = enc n := ⟨_, rfl⟩
  have HL : Hid (L.length = 32) := by rw [hL]; exact enc_len n
  have HLE : Hid (Value.agg (bcs L).toArray = vN n) := by rw [hL]; rfl
  rw [← hL]
  clear hL
  go_wp2_with ((with_reducible show wpList _ _ _ (⟨none, .store 23 (.tmp 4) (.tmp 10), _, _, _, _⟩ :: _) _ _); go_must (refine wpList_store_all rfl 23 (.tmp 4) (.tmp 10) rfl (w.heap.size + 2) rfl (bcs L).toArray rfl 23 _ HRow.out (by rw [List.size_toArray, bcs_len, HL.out]; exact size23) (by rw [List.size_toArray, bcs_len, HL.out]; rfl) (bcs_one _) ?_; intro x5 hh hg hz; have HH := Lib.hid hh; have HG := Lib.hid hg; clear hh hg hz))
  refine bodyPost_ret (results_cell_row rfl _ _ (w.heap.size + 2) 23 (bcs L).toArray _ _ rfl HH.out under23 rfl (by rw [List.size_toArray, bcs_len, HL.out]; exact size23)) rfl ?_
  exact ⟨by rw [HLE.out], HBel.out.grown HG.out HBel.out.size (fun r hr => by injection hr; omega)⟩

theorem Sub_list (la lb : List UInt8) (ha : la.length = 32) (hb : lb.length = 32) (w : World) : Calls Try.prog 21 #[.agg (bcs la).toArray, .agg (bcs lb).toArray] w (Gives (vN ((nv la + (PP - nv lb % PP)) % PP)) w) := by
  have b1 := rdw_bnd la
  have b2 := rdw_bnd lb
  have b2' : Bnd 9007199254740900 (rdw lb) := ⟨b2.1, fun i hi => Nat.lt_of_lt_of_le (b2.2 i hi) (by decide)⟩
  have hv := subk_val (rdw la) (rdw lb) b1.1 b2'
  refine Sub_core la lb (subk (rdw la) (rdw lb) 5) _ w ha hb ?_ ?_ ?_
  · exact Lib.hid fun w' h1 h2 => sub_any _ _ _ _ w' h1 h2 (by omega) ⟨b1.1, fun i hi => Nat.lt_of_lt_of_le (b1.2 i hi) (by decide)⟩ b2'
  · refine ⟨?_, fun i hi => ?_⟩
    · have : ∀ n, (subk (rdw la) (rdw lb) n).length = 5 := by
        intro n
        induction n with
        | zero => exact b1.1
        | succ n ih => unfold subk; rw [List.length_set]; exact ih
      exact this 5
    · have := hv.2 i hi
      have := b1.2 i hi
      omega
  · have h1 := hv.1
    rw [rdw_val, rdw_val] at h1
    unfold PP
    generalize val5 (subk (rdw la) (rdw lb) 5) = x at *
    generalize nv la = a at *
    generalize nv lb = b at *
    have hd := Nat.div_add_mod b 57896044618658097711785492504343953926634992332820282019728792003956564819949
    have hm := Nat.mod_lt b (show 0 < 57896044618658097711785492504343953926634992332820282019728792003956564819949 by decide)
    generalize b % 57896044618658097711785492504343953926634992332820282019728792003956564819949 = m at *
    generalize b / 57896044618658097711785492504343953926634992332820282019728792003956564819949 = q at *
    exact Lib.hid (by omega)


set_option maxHeartbeats 1000000 in
theorem Mul_core (la lb : List UInt8) (r : List Nat) (n : Nat) (w : World) (ha : Hid (la.length = 32)) (hb : Hid (lb.length = 32))
    (HR : Hid (∀ w', WAt w' (w.heap.size + 3) (rdw la) → WAt w' (w.heap.size + 4) (rdw lb) → Calls Try.prog 74 #[.pointer (some ⟨w.heap.size + 3, 0, none⟩), .pointer (some ⟨w.heap.size + 3, 0, none⟩), .pointer (some ⟨w.heap.size + 4, 0, none⟩)] w' (Sets (w.heap.size + 3) r w')))
    (HB : Hid (Bnd 9223372036854775808 r)) (HV : Hid (val5 r % 57896044618658097711785492504343953926634992332820282019728792003956564819949 = n)) :
    Calls Try.prog 25 #[.agg (bcs la).toArray, .agg (bcs lb).toArray] w (Gives (vN n) w) := by
  go_enter Try.func25, Try.ntmps25
  go_wp2_with (first | ((with_reducible show wpList _ _ _ (⟨some 2, .box 23 (.tmp 0), _, _, _, _⟩ :: _) _ _); go_must (refine wpList_box_row rfl 23 (.tmp 0) rfl (bcs la).toArray rfl ?_; intro w1 h1 z1 g1; have H1 := Lib.hid h1; have Z1 := Lib.hid z1; have G1 := Lib.hid g1; clear h1 z1 g1)) | ((with_reducible show wpList _ _ _ (⟨some 3, .box 23 (.tmp 1), _, _, _, _⟩ :: _) _ _); go_must (refine wpList_box_row rfl 23 (.tmp 1) rfl (bcs lb).toArray rfl ?_; intro w2 h1 z1 g1; have H2 := Lib.hid h1; have Z2 := Lib.hid z1; have G2 := Lib.hid g1; clear h1 z1 g1)) | (with_reducible refine wpList_alloc_row rfl 23 rfl (.agg (zbs 32)) zero23 ?_; intro w3 h1 z1 g1; have H3 := Lib.hid h1; have Z3 := Lib.hid z1; have G3 := Lib.hid g1; clear h1 z1 g1) | ((with_reducible show wpList _ _ _ (⟨some 5, .alloc 60, _, _, _, _⟩ :: _) _ _); go_must (refine wpList_alloc_row rfl 60 rfl (.agg (zw 5)) zero60 ?_; intro w4 h1 z1 g1; have H4 := Lib.hid h1; have Z4 := Lib.hid z1; have G4 := Lib.hid g1; clear h1 z1 g1)) | ((with_reducible show wpList _ _ _ (⟨some 6, .alloc 60, _, _, _, _⟩ :: _) _ _); go_must (refine wpList_alloc_row rfl 60 rfl (.agg (zw 5)) zero60 ?_; intro w5 h1 z1 g1; have H5 := Lib.hid h1; have Z5 := Lib.hid z1; have G5 := Lib.hid g1; clear h1 z1 g1)))
  have S : Hid (M2 w la lb [0, 0, 0, 0, 0] [0, 0, 0, 0, 0] w5) := M2.start (cs4 := #[]) (cs5 := #[]) ha.out hb.out H1.out Z1.out G1.out H2.out Z2.out G2.out H3.out Z3.out G3.out H4.out Z4.out G4.out H5.out Z5.out G5.out
  rw [show w4.heap.size = w.heap.size + 4 from by rw [Z4.out, Z3.out, Z2.out, Z1.out], show w3.heap.size = w.heap.size + 3 from by rw [Z3.out, Z2.out, Z1.out], show w2.heap.size = w.heap.size + 2 from by rw [Z2.out, Z1.out], show w1.heap.size = w.heap.size + 1 from by rw [Z1.out]]
  clear H1 Z1 G1 H2 Z2 G2 H3 Z3 G3 H4 Z4 G4 H5 Z5 G5 ha hb
  refine (read_any (w.heap.size + 3) w.heap.size _ la _ S.out.v S.out.a).mono ?_
  rintro e x1 ⟨rfl, hr, hk⟩
  have S1 := Lib.hid (S.out.setV hr hk)
  clear hr hk S
  go_wp2_with fail
  refine (read_any (w.heap.size + 4) (w.heap.size + 1) _ lb _ S1.out.u S1.out.b).mono ?_
  rintro e x2 ⟨rfl, hr, hk⟩
  have S2 := Lib.hid (S1.out.setW hr hk)
  clear hr hk S1
  go_wp2_with fail
  refine (HR.out _ S2.out.v S2.out.u).mono ?_
  rintro e x3 ⟨rfl, hr, hk⟩
  have S3 := Lib.hid (S2.out.setV hr hk)
  clear hr hk S2 HR
  go_wp2_with fail
  refine (number_any (w.heap.size + 3) r _ S3.out.v HB.out).mono ?_
  rintro e x4 ⟨rfl, hk⟩
  rw [HV.out]
  have HRow : Hid (x4.heap[w.heap.size + 2]? = some (.cells (zbs 32) 23 (0, 0))) := (hk.block _ (Array.getElem?_eq_some_iff.1 S3.out.r).1 (by show ¬ _ = _; omega)).trans S3.out.r
  have HBel : Hid (Below w.heap.size w x4) := S3.out.bel.trans (hk.below S3.out.bel.size (fun k hlt => by show ¬ _ = _; omega))
  clear hk S3 HV HB
  obtain ⟨L, hL⟩ : ∃ L, L = enc n := ⟨_, rfl⟩
  have HL : Hid (L.length = 32) := by rw [hL]; exact enc_len n
  have HLE : Hid (Value.agg (bcs L).toArray = vN n) := by rw [hL]; rfl
  rw [← hL]
  clear hL
  go_wp2_with ((with_reducible show wpList _ _ _ (⟨none, .store 23 (.tmp 4) (.tmp 10), _, _, _, _⟩ :: _) _ _); go_must (refine wpList_store_all rfl 23 (.tmp 4) (.tmp 10) rfl (w.heap.size + 2) rfl (bcs L).toArray rfl 23 _ HRow.out (by rw [List.size_toArray, bcs_len, HL.out]; exact size23) (by rw [List.size_toArray, bcs_len, HL.out]; rfl) (bcs_one _) ?_; intro x5 hh hg hz; have HH := Lib.hid hh; have HG := Lib.hid hg; clear hh hg hz))
  refine bodyPost_ret (results_cell_row rfl _ _ (w.heap.size + 2) 23 (bcs L).toArray _ _ rfl HH.out under23 rfl (by rw [List.size_toArray, bcs_len, HL.out]; exact size23)) rfl ?_
  exact ⟨by rw [HLE.out], HBel.out.grown HG.out HBel.out.size (fun r hr => by injection hr; omega)⟩

theorem Mul_list (la lb : List UInt8) (ha : la.length = 32) (hb : lb.length = 32) (w : World) : Calls Try.prog 25 #[.agg (bcs la).toArray, .agg (bcs lb).toArray] w (Gives (vN (nv la * nv lb % PP)) w) := by
  have b1 := rdw_bnd la
  have b2 := rdw_bnd lb
  obtain ⟨hv, hb'⟩ := mul_val (rdw la) (rdw lb) b1 b2
  refine Mul_core la lb (mulL (rdw la) (rdw lb)) _ w ha hb ?_ ?_ ?_
  · exact Lib.hid fun w' h1 h2 => mul_any _ _ _ _ _ _ w' h1 h1 h2 b1 b2
  · exact ⟨hb'.1, fun i hi => Nat.lt_of_lt_of_le (hb'.2 i hi) (by decide)⟩
  · rw [hv, rdw_val, rdw_val]
    rfl

end Go.Proofs.Ytgdimnbdnepbgaa
