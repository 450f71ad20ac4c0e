/- A piece. No statement is proved here. -/
import Derived.Test.YtkglicidjdifkaaSD

namespace Go.Proofs.Ytkglicidjdifkaa
open Go.RowKit
set_option linter.unusedVariables false

theorem not64 (x : Nat) (h : x < 18446744073709551616) : 18446744073709551615 ^^^ x = 18446744073709551615 - x := by
  have h' : x < 2 ^ 64 := lt64.1 h
  apply Nat.eq_of_testBit_eq
  intro i
  rw [Nat.testBit_xor, show (18446744073709551615 : Nat) = 2 ^ 64 - 1 from rfl, Nat.testBit_two_pow_sub_one, show 2 ^ 64 - 1 - x = 2 ^ 64 - (x + 1) from by omega, Nat.testBit_two_pow_sub_succ h']
  by_cases hi : i < 64
  · simp [hi]
  · have : x.testBit i = false := Nat.testBit_lt_two_pow (Nat.lt_of_lt_of_le h' (Nat.pow_le_pow_right (by omega) (by omega)))
    simp [hi, this]
theorem cho_bits {e f g : Nat} (he : e < 18446744073709551616) (hf : f < 18446744073709551616) (hg : g < 18446744073709551616) :
    bits .xor .u64 (bits .and .u64 (e : Int) f) (bits .and .u64 (bits .xor .u64 (if IntKind.u64.signed = true then -1 else IntKind.u64.max) (e : Int)) g) = ((cho e f g : Nat) : Int) := by
  have h1 : bits .xor .u64 (if IntKind.u64.signed = true then -1 else IntKind.u64.max) (e : Int) = ((18446744073709551615 - e : Nat) : Int) := by
    rw [← not64 e he]
    exact u64_xor_nat 18446744073709551615 e (by omega) he
  rw [h1, u64_and_nat e f he hf, u64_and_nat _ g (by omega) hg, u64_xor_nat _ _ (and64 hf) (and64 hg)]
  rfl
theorem maj_bits {a b c : Nat} (ha : a < 18446744073709551616) (hb : b < 18446744073709551616) (hc : c < 18446744073709551616) :
    bits .xor .u64 (bits .xor .u64 (bits .and .u64 (a : Int) b) (bits .and .u64 (a : Int) c)) (bits .and .u64 (b : Int) c) = ((maj a b c : Nat) : Int) := by
  rw [u64_and_nat a b ha hb, u64_and_nat a c ha hc, u64_and_nat b c hb hc, u64_xor_nat _ _ (and64 hb) (and64 hc), u64_xor_nat _ _ (xor64 (and64 hb) (and64 hc)) (and64 hc)]
  rfl
theorem t1_bits (a b c d e f g h k w : Nat) (hf : St.Fits ⟨a, b, c, d, e, f, g, h⟩) :
    IntKind.u64.wrap (IntKind.u64.wrap (IntKind.u64.wrap (IntKind.u64.wrap ((h : Int) + (tri e 14 18 41 : Nat)) + bits .xor .u64 (bits .and .u64 (e : Int) f) (bits .and .u64 (bits .xor .u64 (if IntKind.u64.signed = true then -1 else IntKind.u64.max) (e : Int)) g)) + k) + w)
      = ((St.t1 ⟨a, b, c, d, e, f, g, h⟩ k w : Nat) : Int) := by
  rw [cho_bits hf.e hf.f hf.g]
  unfold St.t1
  simp only [IntKind.wrap_u64]
  omega
theorem t2_bits (a b c d e f g h : Nat) (hf : St.Fits ⟨a, b, c, d, e, f, g, h⟩) :
    IntKind.u64.wrap ((tri a 28 34 39 : Nat) + bits .xor .u64 (bits .xor .u64 (bits .and .u64 (a : Int) b) (bits .and .u64 (a : Int) c)) (bits .and .u64 (b : Int) c)) = ((St.t2 ⟨a, b, c, d, e, f, g, h⟩ : Nat) : Int) := by
  rw [maj_bits hf.a hf.b hf.c]
  unfold St.t2
  simp only [IntKind.wrap_u64]
  omega
theorem add_bits (x y : Nat) : IntKind.u64.wrap ((x : Int) + y) = (((x + y) % 18446744073709551616 : Nat) : Int) := by
  simp only [IntKind.wrap_u64]
  omega
theorem index64 (a b c d e f g h : Nat) (w : World) : ∀ j, j < 8 → (Instr.index 64 (.agg #[.int .u64 a, .int .u64 b, .int .u64 c, .int .u64 d, .int .u64 e, .int .u64 f, .int .u64 g, .int .u64 h]) (.int .i64 (j : Nat))).run Try.prog w = .ok (.int .u64 (([a, b, c, d, e, f, g, h] : List Nat).getD j 0 : Nat)) w
  | 0, _ => by kernel_rfl
  | 1, _ => by kernel_rfl
  | 2, _ => by kernel_rfl
  | 3, _ => by kernel_rfl
  | 4, _ => by kernel_rfl
  | 5, _ => by kernel_rfl
  | 6, _ => by kernel_rfl
  | 7, _ => by kernel_rfl
/-- The first j are those of A, the others those of Z. -/
def mix (A Z : List Nat) (j : Nat) : List Nat := A.take j ++ Z.drop j
theorem mix_len (A Z : List Nat) (j : Nat) (hA : A.length = 8) (hZ : Z.length = 8) (hj : j ≤ 8) : (mix A Z j).length = 8 := by simp [mix, hA, hZ]; omega
theorem mix_get (A Z : List Nat) (j : Nat) (hA : A.length = 8) (hZ : Z.length = 8) (hj : j < 8) : (mix A Z j).getD j 0 = Z.getD j 0 := by
  simp [mix, List.getD_eq_getElem?_getD, List.getElem?_append, hA, Nat.min_eq_left (Nat.le_of_lt hj)]
theorem mix_set (A Z : List Nat) (j : Nat) (hA : A.length = 8) (hZ : Z.length = 8) (hj : j < 8) : (mix A Z j).set j (A.getD j 0) = mix A Z (j + 1) := by
  have h1 : j < A.length := by omega
  have h2 : j < Z.length := by omega
  have e : A.getD j 0 = A[j] := by rw [List.getD_eq_getElem?_getD, List.getElem?_eq_getElem h1]; rfl
  unfold mix
  rw [List.set_append, if_neg (by simp; omega), show j - (List.take j A).length = 0 from by simp; omega, List.drop_eq_getElem_cons h2, List.set_cons_zero, List.take_succ_eq_append_getElem h1, e, List.append_assoc]
  rfl
theorem plus_getD (s t : St) (j : Nat) (hj : j < 8) : (s.plus t).words.getD j 0 = (s.words.getD j 0 + t.words.getD j 0) % 18446744073709551616 := by
  match j, hj with
  | 0, _ => rfl
  | 1, _ => rfl
  | 2, _ => rfl
  | 3, _ => rfl
  | 4, _ => rfl
  | 5, _ => rfl
  | 6, _ => rfl
  | 7, _ => rfl
/-- The memory of a piece's end. -/
structure Pe (B : Nat) (w0 : World) (l : List Nat) (w : World) : Prop where
  st : w.heap[B]? = some (.cells (ucs l).toArray 64 (0, 0))
  res : w.heap[B + 2]? = some (.cells (zw 8) 64 (0, 0))
  lt : B + 3 ≤ w.heap.size
  bel : Below B w0 w
/-- The memory of a piece's rounds. -/
structure Pc (B g5 g6 : Nat) (w0 : World) (s : St) (W : List Nat) (w : World) : Prop where
  st : w.heap[B]? = some (.cells (ucs s.words).toArray 64 (0, 0))
  res : w.heap[B + 2]? = some (.cells (zw 8) 64 (0, 0))
  ks : w.heap[g5]? = some (.cells K80a 93 (0, 0))
  ws : w.heap[g6]? = some (.cells (ucs W).toArray 93 (0, 0))
  lo5 : B + 3 ≤ g5
  lo6 : B + 3 ≤ g6
  h5 : g5 < w.heap.size
  h6 : g6 < w.heap.size
  bel : Below B w0 w
theorem Pc.drewN {B g5 g6 : Nat} {w0 : World} {s : St} {W : List Nat} {w : World} (h : Pc B g5 g6 w0 s W w) (k : Nat) : Pc B g5 g6 w0 s W (w.drewN k) :=
  ⟨h.st, h.res, h.ks, h.ws, h.lo5, h.lo6, h.h5, h.h6, below_drewN' h.bel k⟩

set_option maxRecDepth 100000 in
set_option maxHeartbeats 1000000 in
theorem piece_any (s : St) (hs : s.Fits) (blk : List UInt8) (hl : blk.length = 128) (w : World) :
    Calls Try.prog 47 #[.agg (ucs s.words).toArray, .agg (bcs blk).toArray] w (Gives (.agg (ucs (piece s blk).words).toArray) w) := by
  have HW := Lib.hid (rfl : sched blk = sched blk)
  have HLL := Lib.hid hl
  have HFS := Lib.hid hs
  clear hl hs
  have hp : piece s blk = s.plus (St.rounds K80 (sched blk) 80 s) := rfl
  rw [hp]
  clear hp
  have HSL : Hid ((sched blk).length = 80) := sched_len blk
  have hex : ∃ W, W = sched blk := ⟨_, rfl⟩
  obtain ⟨W, hW⟩ := hex
  rw [← hW] at HSL ⊢
  have HWW := Lib.hid hW
  clear hW HW
  have H0 : Hid (St.rounds K80 W 0 s = s) := rfl
  have HSt : Hid (∀ n, St.rounds K80 W (n + 1) s = (St.rounds K80 W n s).step (K80.getD n 0) (W.getD n 0)) := fun _ => rfl
  have HF : Hid (∀ n, (St.rounds K80 W n s).Fits) := fun n => HFS.out.rounds K80 W n
  have HKG : Hid (∀ (w : World) g t n, w.heap[g]? = some (.cells K80a t (0, 0)) → n < 80 → w.cell? ⟨g, n, none⟩ = some (.int .u64 (K80.getD n 0 : Nat))) := fun w g t n hg hn => by
    refine row_cells hg n _ ?_
    rw [K80a_list, ucs_get, List.getD_eq_getElem?_getD, List.getElem?_eq_getElem (by exact hn)]
    rfl
  have HWG : Hid (∀ (w : World) g t n, w.heap[g]? = some (.cells (ucs W).toArray t (0, 0)) → n < 80 → w.cell? ⟨g, n, none⟩ = some (.int .u64 (W.getD n 0 : Nat))) := fun w g t n hg hn => by
    refine row_cells hg n _ ?_
    rw [List.toList_toArray, ucs_get, List.getD_eq_getElem?_getD, List.getElem?_eq_getElem (by rw [HSL.out]; exact hn)]
    rfl
  generalize St.rounds K80 W = RR at *
  generalize K80 = KK at HKG HSt
  go_enter Try.func47, Try.ntmps47
  go_wp2_with (first | (with_reducible refine wpList_alloc_row rfl 64 rfl (.agg (zw 8)) zero64 ?_; intro w1 hh1 hz1 hg1))
  simp only [World.size_alloc] at hz1 hh1 ⊢
  have HS1 : Hid (w1.heap.size = w.heap.size + 3 ∧ w1.heap[w.heap.size]? = some (.cells (ucs s.words).toArray 64 (0, 0)) ∧ w1.heap[w.heap.size + 1]? = some (.cells (bcs blk).toArray 84 (0, 0)) ∧ w1.heap[w.heap.size + 2]? = some (.cells (zw 8) 64 (0, 0)) ∧ Below w.heap.size w w1) := by
    refine ⟨by omega, ?_, ?_, hh1, ?_⟩
    · exact (hg1.block _ (by simp; omega) (by simp)).trans ((below_alloc _ _).block _ (by simp) |>.trans (heap_alloc_new w _))
    · exact (hg1.block _ (by simp) (by simp)).trans (by have := heap_alloc_new (w.alloc (Obj.cells (ucs s.words).toArray 64)) (Obj.cells (bcs blk).toArray 84); simpa using this)
    · exact (((below_alloc w _).trans ((below_alloc _ _).mono (by simp))).grown hg1 (by simp; omega) (by simp))
  have HC : Hid (∀ w', Keeps (fun b => w.heap.size + 3 ≤ b) w1.drew w' → ∀ i u, (bcs blk)[i]? = some u → w'.cell? ⟨w.heap.size + 1, 0 + i, none⟩ = some u) := fun w' hk i u hu => by
    have hz := HS1.out.1
    rw [Nat.zero_add]
    refine row_cells ((hk.block (w.heap.size + 1) (by show _ < w1.heap.size; omega) (by omega)).trans HS1.out.2.2.1) i u (by simpa using hu)
  have HSz : Hid ((Try.prog.info? 84).map (·.size) = some (bcs blk).length) := by rw [size84, bcs_len, HLL.out]; exact rfl
  clear hh1 hz1 hg1
  refine anyStart (fun b => w.heap.size + 3 ≤ b) (by kernel_rfl) ?_
  refine anyTake (i := 1) (oi := { dst := some 21, op := Op.load 84 (Operand.tmp 3), type := 84, pos := "sha.go:82", after := #[], guard := none }) (v := .agg (bcs blk).toArray) rfl (by kernel_rfl) (by kernel_rfl) (by kernel_rfl) (fun _ _ _ h => h) (by rfl) (fun w' hk => exec_load 84 (.tmp 3) rfl (w.heap.size + 1) 0 rfl (bcs blk) (HC.out w' hk) _ under84 rfl HSz.out) ?_
  simp only [Act.put, List.setIfInBounds_toArray, List.set_cons_zero, List.set_cons_succ]
  refine st_start (blk := blk) (S := W) (lo := w.heap.size + 3) (w0 := w1) HLL.out HWW.out rfl rfl (by simp) ?_ ?_ ?_
  · exact Nat.le_of_eq HS1.out.1.symm
  · exact below_drewN' (Below.refl _ w1) 1
  intro g5 g6 w2 l5 l6 z5 z6 hb2 hk5 hk6
  have HP : Hid (Pc w.heap.size g5 g6 w s W w2) := by
    obtain ⟨a1, a2, a3, a4, a5⟩ := HS1.out
    exact ⟨(hb2.block _ (by omega)).trans a2, (hb2.block _ (by omega)).trans a4, hk5, hk6, l5, l6, z5, z6, a5.trans (hb2.mono (by omega))⟩
  clear hb2 hk5 hk6 z5 z6 l5 l6 HC HSz HS1
  simp only [fr, Act.put, List.setIfInBounds_toArray, List.set_cons_zero, List.set_cons_succ]
  have c0 : w2.cell? ⟨w.heap.size, 0, none⟩ = some (.int .u64 (s.a : Int)) := row_cells HP.out.st 0 _ rfl
  have c1 : w2.cell? ⟨w.heap.size, 1, none⟩ = some (.int .u64 (s.b : Int)) := row_cells HP.out.st 1 _ rfl
  have c2 : w2.cell? ⟨w.heap.size, 2, none⟩ = some (.int .u64 (s.c : Int)) := row_cells HP.out.st 2 _ rfl
  have c3 : w2.cell? ⟨w.heap.size, 3, none⟩ = some (.int .u64 (s.d : Int)) := row_cells HP.out.st 3 _ rfl
  go_wp2
  go_quiet (fail)
  obtain ⟨w3, hw3⟩ : ∃ w3, w3 = w2.drewN nq := ⟨_, rfl⟩
  have HP3 : Hid (Pc w.heap.size g5 g6 w s W w3) := by rw [hw3]; exact HP.out.drewN nq
  rw [← hw3]
  clear c0 c1 c2 c3 hw3 HP
  have c4 : w3.cell? ⟨w.heap.size, 4, none⟩ = some (.int .u64 (s.e : Int)) := row_cells HP3.out.st 4 _ rfl
  have c5 : w3.cell? ⟨w.heap.size, 5, none⟩ = some (.int .u64 (s.f : Int)) := row_cells HP3.out.st 5 _ rfl
  have c6 : w3.cell? ⟨w.heap.size, 6, none⟩ = some (.int .u64 (s.g : Int)) := row_cells HP3.out.st 6 _ rfl
  have c7 : w3.cell? ⟨w.heap.size, 7, none⟩ = some (.int .u64 (s.h : Int)) := row_cells HP3.out.st 7 _ rfl
  go_wp2
  go_quiet (fail)
  obtain ⟨w4, hw4⟩ : ∃ w4, w4 = w3.drewN nq := ⟨_, rfl⟩
  have HP4 : Hid (Pc w.heap.size g5 g6 w s W w4) := by rw [hw4]; exact HP3.out.drewN nq
  rw [← hw4]
  clear c4 c5 c6 c7 hw4 HP3
  go_wp2
  go_loopw [7, 8, 9, 10, 11, 12, 13, 14, 39] (fun a b c d e f g h i wr => ∃ n : Nat, n ≤ 80 ∧ i = .int .i64 n ∧ a = .int .u64 ((RR n s).a : Nat) ∧ b = .int .u64 ((RR n s).b : Nat) ∧ c = .int .u64 ((RR n s).c : Nat) ∧ d = .int .u64 ((RR n s).d : Nat) ∧ e = .int .u64 ((RR n s).e : Nat) ∧ f = .int .u64 ((RR n s).f : Nat) ∧ g = .int .u64 ((RR n s).g : Nat) ∧ h = .int .u64 ((RR n s).h : Nat) ∧ Pc w.heap.size g5 g6 w s W wr) (fun _ _ _ _ _ _ _ _ i _ => 80 - (intOf i).toNat)
  case atStart => exact ⟨0, by omega, rfl, by rw [H0.out], by rw [H0.out], by rw [H0.out], by rw [H0.out], by rw [H0.out], by rw [H0.out], by rw [H0.out], by rw [H0.out], HP4.out⟩
  case round =>
    obtain ⟨n, hn, rfl, rfl, rfl, rfl, rfl, rfl, rfl, rfl, rfl, hpc⟩ := hrel
    have HP := Lib.hid hpc
    clear hpc HP4
    by_cases hlt : n < 80
    · have HN := Lib.hid (HSt.out n)
      have HT := Lib.hid (HF.out n)
      have ck := Lib.hid (HKG.out wr g5 93 n HP.out.ks hlt)
      have cw := Lib.hid (HWG.out wr g6 93 n HP.out.ws hlt)
      clear HSt HF HKG HWG H0
      generalize KK.getD n 0 = kk at *
      generalize W.getD n 0 = ww at *
      generalize RR n s = t at *
      obtain ⟨ta, tb, tc, td, te, tf, tg, th⟩ := t
      dsimp only
      have hln : (n : Int) < 80 := by omega
      have CT : Hid (∀ w, Calls Try.prog 56 #[.int .u64 (te : Int), .int .i64 14, .int .i64 18, .int .i64 41] w fun e w' => e = .returned (.int .u64 (tri te 14 18 41)) ∧ w' = w) := fun w => (turns_any te 14 18 41 w HT.out.e (by omega) (by omega) (by omega)).mono fun e w' h => ⟨h.1, h.2.symm⟩
      have CU : Hid (∀ w, Calls Try.prog 56 #[.int .u64 (ta : Int), .int .i64 28, .int .i64 34, .int .i64 39] w fun e w' => e = .returned (.int .u64 (tri ta 28 34 39)) ∧ w = w') := fun w => turns_any ta 28 34 39 w HT.out.a (by omega) (by omega) (by omega)
      go_wp2_with fail
      have ck1 := ck.out
      have cw1 := cw.out
      go_quiet ((go_at_call 56; exact Calls.quiet_of_same (CT.out _)))
      rw [t1_bits ta tb tc td te tf tg th kk ww HT.out]
      have HS : Hid (RR (n + 1) s = ⟨(St.t1 ⟨ta, tb, tc, td, te, tf, tg, th⟩ kk ww + St.t2 ⟨ta, tb, tc, td, te, tf, tg, th⟩) % 18446744073709551616, ta, tb, tc, (td + St.t1 ⟨ta, tb, tc, td, te, tf, tg, th⟩ kk ww) % 18446744073709551616, te, tf, tg⟩) := HN.out
      clear HN
      generalize St.t1 ⟨ta, tb, tc, td, te, tf, tg, th⟩ kk ww = z1 at *
      obtain ⟨w5, hw5⟩ : ∃ w5, w5 = wr.drewN nq := ⟨_, rfl⟩
      have HP5 : Hid (Pc w.heap.size g5 g6 w s W w5) := by rw [hw5]; exact HP.out.drewN nq
      rw [← hw5]
      clear hw5 HP ck1 cw1 ck cw
      go_wp2_with (go_at_call 56; refine (CU.out _).mono ?_; rintro e w' ⟨rfl, rfl⟩)
      rw [t2_bits ta tb tc td te tf tg th HT.out]
      generalize St.t2 ⟨ta, tb, tc, td, te, tf, tg, th⟩ = z2 at *
      rw [add_bits, add_bits]
      refine ⟨⟨n + 1, by omega, by go_num, ?_, ?_, ?_, ?_, ?_, ?_, ?_, ?_, HP5.out⟩, by simp [intOf]; omega⟩
      all_goals rw [HS.out]
    · obtain rfl : n = 80 := by omega
      clear hlt hn HSt HF HKG HWG H0 HLL HFS HSL HWW
      have HP2 : Hid (Pe w.heap.size w (mix (s.plus (RR 80 s)).words s.words 0) wr) := by
        obtain ⟨a1, a2, _, _, a5, _, a7, _, a9⟩ := HP.out
        exact ⟨a1, a2, by omega, a9⟩
      clear HP
      generalize RR 80 s = t at *
      obtain ⟨ta, tb, tc, td, te, tf, tg, th⟩ := t
      dsimp only
      rw [show ((80 : Nat) : Int) = 80 from rfl]
      go_wp2
      go_loopw [18, 19, 99] (fun _ _ i wr => ∃ j : Nat, j ≤ 8 ∧ i = .int .i64 j ∧ Pe w.heap.size w (mix (s.plus ⟨ta, tb, tc, td, te, tf, tg, th⟩).words s.words j) wr) (fun _ _ i _ => 8 - (intOf i).toNat)
      case atStart => exact ⟨0, by omega, rfl, HP2.out⟩
      case round =>
        obtain ⟨j, hj, rfl, hpe⟩ := hrel
        have HP := Lib.hid hpe
        clear hpe HP2
        by_cases hlt : j < 8
        · have hix := fun w => index64 ta tb tc td te tf tg th w j hlt
          have hlen : ∀ s : St, s.words.length = 8 := fun _ => rfl
          have HG := Lib.hid (plus_getD s ⟨ta, tb, tc, td, te, tf, tg, th⟩ j hlt)
          have HM := Lib.hid (mix_set (s.plus ⟨ta, tb, tc, td, te, tf, tg, th⟩).words s.words j (hlen _) (hlen _) hlt)
          have HL := Lib.hid (mix_len (s.plus ⟨ta, tb, tc, td, te, tf, tg, th⟩).words s.words j (hlen _) (hlen _) hj)
          have hcell : wr.cell? ⟨w.heap.size, j, none⟩ = some (.int .u64 (s.words.getD j 0 : Nat)) := by
            refine row_cells HP.out.st j _ ?_
            have hj2 : j < (mix (s.plus ⟨ta, tb, tc, td, te, tf, tg, th⟩).words s.words j).length := by rw [HL.out]; exact hlt
            have := mix_get (s.plus ⟨ta, tb, tc, td, te, tf, tg, th⟩).words s.words j (hlen _) (hlen _) hlt
            rw [List.toList_toArray, ucs_get, ← this, List.getD_eq_getElem?_getD, List.getElem?_eq_getElem hj2]
            rfl
          rw [HG.out] at HM
          rw [show St.words ⟨ta, tb, tc, td, te, tf, tg, th⟩ = [ta, tb, tc, td, te, tf, tg, th] from rfl] at HM
          clear HG hlen
          generalize s.words.getD j 0 = x at *
          generalize ([ta, tb, tc, td, te, tf, tg, th] : List Nat).getD j 0 = y at *
          generalize mix (s.plus ⟨ta, tb, tc, td, te, tf, tg, th⟩).words s.words = MM at *
          go_wp2_with ((with_reducible show wpList _ _ _ (⟨none, .store 25 (.tmp 108) (.tmp 107), _, _, _, _⟩ :: _) _ _); refine wpList_store_one rfl 25 (.tmp 108) (.tmp 107) rfl w.heap.size j rfl .u64 _ rfl 64 _ HP.out.st size25 (by simp [ucs_len, HL.out]; omega) ?_; intro w3 hh3 hg3 hz3; rw [add_bits, ucs_set, HM.out] at hh3; have HP3 : Hid (Pe w.heap.size w (MM (j + 1)) w3) := ⟨hh3, (hg3.block _ (by have := HP.out.lt; omega) (by simp)).trans HP.out.res, by have := HP.out.lt; omega, HP.out.bel.grown hg3 (by have := HP.out.lt; omega) (fun r hr => by injection hr; omega)⟩; clear hh3 hg3 hz3)
          go_roundw
          case rel =>
            exact ⟨j + 1, by omega, by go_num, HP3.out⟩
          case measure => simp [intOf]; omega
        · obtain rfl : j = 8 := by omega
          clear hlt hj
          have hm : mix (s.plus ⟨ta, tb, tc, td, te, tf, tg, th⟩).words s.words 8 = (s.plus ⟨ta, tb, tc, td, te, tf, tg, th⟩).words := rfl
          rw [hm] at HP
          clear hm
          have HLW : Hid ((s.plus ⟨ta, tb, tc, td, te, tf, tg, th⟩).words.length = 8) := rfl
          generalize (s.plus ⟨ta, tb, tc, td, te, tf, tg, th⟩).words = R at *
          have HC : Hid (∀ i u, (ucs R)[i]? = some u → wr.cell? ⟨w.heap.size, 0 + i, none⟩ = some u) := fun i u hu => by
            rw [Nat.zero_add]
            exact row_cells HP.out.st i u (by simpa using hu)
          have HSz : Hid ((Try.prog.info? 64).map (·.size) = some (ucs R).length) := by rw [size64, ucs_len, HLW.out]; exact rfl
          have HSa : Hid ((Try.prog.info? 64).map (·.size) = some (ucs R).toArray.size) := by rw [HSz.out]; exact rfl
          have HZ := Lib.hid (show (ucs R).toArray.size = (zw 8).size from by simp [ucs_len, HLW.out, zw])
          have HLT := HP.out.lt
          go_wp2_with (first | ((with_reducible show wpList _ _ _ (⟨_, .load 64 (.tmp 2), _, _, _, _⟩ :: _) _ _); refine wpList_load_arr rfl 64 (.tmp 2) rfl w.heap.size 0 rfl (ucs R) HC.out _ under64 rfl HSz.out ?_) | ((with_reducible show wpList _ _ _ (⟨none, .store 64 (.tmp 4) (.tmp 110), _, _, _, _⟩ :: _) _ _); refine wpList_store_all rfl 64 (.tmp 4) (.tmp 110) rfl (w.heap.size + 2) rfl (ucs R).toArray rfl 64 (zw 8) HP.out.res HSa.out HZ.out (ucs_one _) ?_; intro w3 hh3 hg3 hz3))
          have H3 := Lib.hid hh3
          have G3 := Lib.hid hg3
          clear hh3 hg3
          go_wp2
          refine bodyPost_ret (results_cell_row rfl _ _ (w.heap.size + 2) 64 (ucs R).toArray _ _ rfl H3.out under64 rfl HSa.out) rfl ?_
          exact ⟨rfl, HP.out.bel.grown G3.out (by omega) (fun r hr => by injection hr; omega)⟩
end Go.Proofs.Ytkglicidjdifkaa
