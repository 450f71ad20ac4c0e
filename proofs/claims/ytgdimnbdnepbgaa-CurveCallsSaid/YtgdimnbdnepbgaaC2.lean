/- Several texts in one. No statement is proved here. -/
import Derived.Test.YtgdimnbdnepbgaaC1
import Derived.OpenShut
/- The field's residue, power and small numbers. No statement is proved here. -/
namespace Go.Proofs.Ytgdimnbdnepbgaa
open Go.RowKit
set_option linter.unusedVariables false
set_option linter.unusedSimpArgs false
set_option maxRecDepth 40000

set_option maxHeartbeats 1000000 in
theorem Rest_list (la : List UInt8) (n : Nat) (w : World) (ha : Hid (la.length = 32)) (HV : Hid (val5 (rdw la) % 57896044618658097711785492504343953926634992332820282019728792003956564819949 = n)) :
    Calls Try.prog 13 #[.agg (bcs la).toArray] w (Gives (vN n) w) := by
  have HB : Hid (Bnd 9223372036854775808 (rdw la)) := ⟨(rdw_bnd la).1, fun i hi => Nat.lt_of_lt_of_le ((rdw_bnd la).2 i hi) (by decide)⟩
  go_enter Try.func13, Try.ntmps13
  go_wp2_with (first | ((with_reducible show wpList _ _ _ (⟨some 1, .box 23 (.tmp 0), _, _, _, _⟩ :: _) _ _); go_must (refine wpList_box_row rfl 23 (.tmp 0) rfl (bcs la).toArray rfl ?_; intro w1 h1 z1 g1; have H1 := Lib.hid h1; have Z1 := Lib.hid z1; have G1 := Lib.hid g1; clear h1 z1 g1)) | ((with_reducible show wpList _ _ _ (⟨some 2, .alloc 23, _, _, _, _⟩ :: _) _ _); go_must (refine wpList_alloc_row rfl 23 rfl (.agg (zbs 32)) zero23 ?_; intro w2 h1 z1 g1; have H2 := Lib.hid h1; have Z2 := Lib.hid z1; have G2 := Lib.hid g1; clear h1 z1 g1)) | ((with_reducible show wpList _ _ _ (⟨some 3, .alloc 60, _, _, _, _⟩ :: _) _ _); go_must (refine wpList_alloc_row rfl 60 rfl (.agg (zw 5)) zero60 ?_; intro w3 h1 z1 g1; have H3 := Lib.hid h1; have Z3 := Lib.hid z1; have G3 := Lib.hid g1; clear h1 z1 g1)))
  have S : Hid (M1 w la [0, 0, 0, 0, 0] w3) := by
    have b1 := below_of_grownBy G1.out
    have b2 := below_of_grownBy G2.out
    have b3 := below_of_grownBy G3.out
    have h2 := H2.out
    have h3 := H3.out
    have z2 := Z2.out
    rw [Z1.out] at h2 b2 z2
    rw [z2] at h3 b3
    refine ⟨⟨ha.out, 23, ?_⟩, ?_, ⟨rfl, 60, h3⟩, ?_⟩
    · exact (b3.block _ (by omega)).trans ((b2.block _ (by omega)).trans H1.out)
    · exact (b3.block _ (by omega)).trans h2
    · exact b1.trans ((b2.mono (by omega)).trans (b3.mono (by omega)))
  rw [show w2.heap.size = w.heap.size + 2 from by rw [Z2.out, Z1.out], show w1.heap.size = w.heap.size + 1 from by rw [Z1.out]]
  clear H1 Z1 G1 H2 Z2 G2 H3 Z3 G3 ha
  refine (read_any (w.heap.size + 2) w.heap.size _ la _ S.out.v S.out.a).mono ?_
  rintro e x1 ⟨rfl, hr, hk⟩
  have S1 := Lib.hid (S.out.setV hr hk)
  clear hr hk S
  go_wp2_with fail
  refine (number_any (w.heap.size + 2) (rdw la) _ S1.out.v HB.out).mono ?_
  rintro e x4 ⟨rfl, hk⟩
  rw [HV.out]
  have HRow : Hid (x4.heap[w.heap.size + 1]? = some (.cells (zbs 32) 23 (0, 0))) := (hk.block _ (Array.getElem?_eq_some_iff.1 S1.out.r).1 (by show ¬ _ = _; omega)).trans S1.out.r
  have HBel : Hid (Below w.heap.size w x4) := S1.out.bel.trans (hk.below S1.out.bel.size (fun k hlt => by show ¬ _ = _; omega))
  clear hk S1 HV HB
  obtain ⟨L, hL⟩ : ∃ L, L = enc n := ⟨_, rfl⟩
  have HL : Hid (L.length = 32) := by rw [hL]; exact enc_len n
  have HLE : Hid (Value.agg (bcs L).toArray = vN n) := by rw [hL]; rfl
  rw [← hL]
  clear hL
  go_wp2_with ((with_reducible show wpList _ _ _ (⟨none, .store 23 (.tmp 2) (.tmp 5), _, _, _, _⟩ :: _) _ _); go_must (refine wpList_store_all rfl 23 (.tmp 2) (.tmp 5) rfl (w.heap.size + 1) rfl (bcs L).toArray rfl 23 _ HRow.out (by rw [List.size_toArray, bcs_len, HL.out]; exact size23) (by rw [List.size_toArray, bcs_len, HL.out]; rfl) (bcs_one _) ?_; intro x5 hh hg hz; have HH := Lib.hid hh; have HG := Lib.hid hg; clear hh hg hz))
  refine bodyPost_ret (results_cell_row rfl _ _ (w.heap.size + 1) 23 (bcs L).toArray _ _ rfl HH.out under23 rfl (by rw [List.size_toArray, bcs_len, HL.out]; exact size23)) rfl ?_
  exact ⟨by rw [HLE.out], HBel.out.grown HG.out HBel.out.size (fun r hr => by injection hr; omega)⟩

/-- The memory of Pow. -/
structure M3 (w : World) (la lb : List UInt8) (ov : List Nat) (w' : World) : Prop where
  a : NumAt w' w.heap.size la
  b : NumAt w' (w.heap.size + 1) lb
  r : w'.heap[w.heap.size + 2]? = some (.cells (zbs 32) 23 (0, 0))
  v : WAt w' (w.heap.size + 3) ov
  bel : Below w.heap.size w w'
theorem M3.setV {w : World} {la lb : List UInt8} {ov o : List Nat} {w' w'' : World} (h : M3 w la lb ov w') (hv : WAt w'' (w.heap.size + 3) o) (hk : Keeps (· = w.heap.size + 3) w' w'') : M3 w la lb o w'' :=
  ⟨h.a.keeps hk (by show ¬ _ = _; omega), h.b.keeps hk (by show ¬ _ = _; omega), (hk.block _ (Array.getElem?_eq_some_iff.1 h.r).1 (by show ¬ _ = _; omega)).trans h.r, hv, h.bel.trans (hk.below h.bel.size (fun k hlt => by show ¬ _ = _; omega))⟩

set_option maxHeartbeats 1000000 in
theorem Pow_core (la lb : List UInt8) (a n : Nat) (w : World) (ha : Hid (la.length = 32)) (hb : Hid (lb.length = 32)) (HA : Hid (nv la = a)) (HV : Hid (a ^ nv lb % 57896044618658097711785492504343953926634992332820282019728792003956564819949 = n)) :
    Calls Try.prog 27 #[.agg (bcs la).toArray, .agg (bcs lb).toArray] w (Gives (vN n) w) := by
  go_enter Try.func27, Try.ntmps27
  go_wp2_with (first | ((with_reducible show wpList _ _ _ (⟨some 2, .box 23 (.tmp 0), _, _, _, _⟩ :: _) _ _); go_must (refine wpList_box_row rfl 23 (.tmp 0) rfl (bcs la).toArray rfl ?_; intro w1 h1 z1 g1; have H1 := Lib.hid h1; have Z1 := Lib.hid z1; have G1 := Lib.hid g1; clear h1 z1 g1)) | ((with_reducible show wpList _ _ _ (⟨some 3, .box 23 (.tmp 1), _, _, _, _⟩ :: _) _ _); go_must (refine wpList_box_row rfl 23 (.tmp 1) rfl (bcs lb).toArray rfl ?_; intro w2 h1 z1 g1; have H2 := Lib.hid h1; have Z2 := Lib.hid z1; have G2 := Lib.hid g1; clear h1 z1 g1)) | ((with_reducible show wpList _ _ _ (⟨some 4, .alloc 23, _, _, _, _⟩ :: _) _ _); go_must (refine wpList_alloc_row rfl 23 rfl (.agg (zbs 32)) zero23 ?_; intro w3 h1 z1 g1; have H3 := Lib.hid h1; have Z3 := Lib.hid z1; have G3 := Lib.hid g1; clear h1 z1 g1)) | ((with_reducible show wpList _ _ _ (⟨some 5, .alloc 60, _, _, _, _⟩ :: _) _ _); go_must (refine wpList_alloc_row rfl 60 rfl (.agg (zw 5)) zero60 ?_; intro w4 h1 z1 g1; have H4 := Lib.hid h1; have Z4 := Lib.hid z1; have G4 := Lib.hid g1; clear h1 z1 g1)))
  have S : Hid (M3 w la lb [0, 0, 0, 0, 0] w4) := by
    have b1 := below_of_grownBy G1.out
    have b2 := below_of_grownBy G2.out
    have b3 := below_of_grownBy G3.out
    have b4 := below_of_grownBy G4.out
    have h2 := H2.out
    have h3 := H3.out
    have h4 := H4.out
    have z2 := Z2.out
    have z3 := Z3.out
    rw [Z1.out] at h2 b2 z2
    rw [z2] at h3 b3 z3
    rw [z3] at h4 b4
    refine ⟨⟨ha.out, 23, ?_⟩, ⟨hb.out, 23, ?_⟩, ?_, ⟨rfl, 60, h4⟩, ?_⟩
    · exact (b4.block _ (by omega)).trans ((b3.block _ (by omega)).trans ((b2.block _ (by omega)).trans H1.out))
    · exact (b4.block _ (by omega)).trans ((b3.block _ (by omega)).trans h2)
    · exact (b4.block _ (by omega)).trans h3
    · exact b1.trans ((b2.mono (by omega)).trans ((b3.mono (by omega)).trans (b4.mono (by omega))))
  rw [show w3.heap.size = w.heap.size + 3 from by rw [Z3.out, Z2.out, Z1.out], show w2.heap.size = w.heap.size + 2 from by rw [Z2.out, Z1.out], show w1.heap.size = w.heap.size + 1 from by rw [Z1.out]]
  clear H1 Z1 G1 H2 Z2 G2 H3 Z3 G3 H4 Z4 G4 ha hb
  refine (read_any (w.heap.size + 3) w.heap.size _ la _ S.out.v S.out.a).mono ?_
  rintro e x1 ⟨rfl, hr, hk⟩
  have S1 := Lib.hid (S.out.setV hr hk)
  clear hr hk S
  go_wp2_with fail
  refine (pow_any (w.heap.size + 3) (w.heap.size + 3) (w.heap.size + 1) _ (rdw la) lb a _ S1.out.v S1.out.v S1.out.b (rdw_bnd la) (by rw [rdw_val, HA.out])).mono ?_
  rintro e x2 ⟨rfl, r, hr, hb, hv, hk⟩
  have S2 := Lib.hid (S1.out.setV hr hk)
  have HB : Hid (Bnd 9223372036854775808 r) := ⟨hb.1, fun i hi => Nat.lt_of_lt_of_le (hb.2 i hi) (by decide)⟩
  have HN := Lib.hid (hv.trans HV.out)
  clear hr hk S1 hb hv HV HA
  go_wp2_with fail
  refine (number_any (w.heap.size + 3) r _ S2.out.v HB.out).mono ?_
  rintro e x4 ⟨rfl, hk⟩
  rw [HN.out]
  have HRow : Hid (x4.heap[w.heap.size + 2]? = some (.cells (zbs 32) 23 (0, 0))) := (hk.block _ (Array.getElem?_eq_some_iff.1 S2.out.r).1 (by show ¬ _ = _; omega)).trans S2.out.r
  have HBel : Hid (Below w.heap.size w x4) := S2.out.bel.trans (hk.below S2.out.bel.size (fun k hlt => by show ¬ _ = _; omega))
  clear hk S2 HN HB
  obtain ⟨L, hL⟩ : ∃ L, L = enc n := ⟨_, rfl⟩
  have HL : Hid (L.length = 32) := by rw [hL]; exact enc_len n
  have HLE : Hid (Value.agg (bcs L).toArray = vN n) := by rw [hL]; rfl
  rw [← hL]
  clear hL
  go_wp2_with ((with_reducible show wpList _ _ _ (⟨none, .store 23 (.tmp 4) (.tmp 8), _, _, _, _⟩ :: _) _ _); go_must (refine wpList_store_all rfl 23 (.tmp 4) (.tmp 8) rfl (w.heap.size + 2) rfl (bcs L).toArray rfl 23 _ HRow.out (by rw [List.size_toArray, bcs_len, HL.out]; exact size23) (by rw [List.size_toArray, bcs_len, HL.out]; rfl) (bcs_one _) ?_; intro x5 hh hg hz; have HH := Lib.hid hh; have HG := Lib.hid hg; clear hh hg hz))
  refine bodyPost_ret (results_cell_row rfl _ _ (w.heap.size + 2) 23 (bcs L).toArray _ _ rfl HH.out under23 rfl (by rw [List.size_toArray, bcs_len, HL.out]; exact size23)) rfl ?_
  exact ⟨by rw [HLE.out], HBel.out.grown HG.out HBel.out.size (fun r hr => by injection hr; omega)⟩

theorem put_of (x : Nat) (h : x < 18446744073709551616) : put8 (List.replicate 32 0) 0 x = enc x := by
  unfold enc
  rw [Nat.mod_eq_of_lt h, show x / 18446744073709551616 % 18446744073709551616 = 0 from by omega, show x / 340282366920938463463374607431768211456 % 18446744073709551616 = 0 from by omega, show x / 6277101735386680763835789423207666416102355444464034512896 % 18446744073709551616 = 0 from by omega]
  rfl

set_option maxHeartbeats 1000000 in
theorem Of_core (x n : Nat) (w : World) (HP : Hid (put8 (List.replicate 32 0) 0 x = enc n)) : Calls Try.prog 17 #[.int .u64 x] w (Gives (vN n) w) := by
  go_enter Try.func17, Try.ntmps17
  go_wp2_with (first | ((with_reducible show wpList _ _ _ (⟨some 2, .alloc 23, _, _, _, _⟩ :: _) _ _); go_must (refine wpList_alloc_row rfl 23 rfl (.agg (zbs 32)) zero23 ?_; intro w1 h1 z1 g1; have H1 := Lib.hid h1; have Z1 := Lib.hid z1; have G1 := Lib.hid g1; clear h1 z1 g1)) | ((with_reducible show wpList _ _ _ (⟨some 3, .alloc 23, _, _, _, _⟩ :: _) _ _); go_must (refine wpList_alloc_row rfl 23 rfl (.agg (zbs 32)) zero23 ?_; intro w2 h1 z1 g1; have H2 := Lib.hid h1; have Z2 := Lib.hid z1; have G2 := Lib.hid g1; clear h1 z1 g1)))
  have HRow1 : Hid (w2.heap[w.heap.size]? = some (.cells (zbs 32) 23 (0, 0))) := ((below_of_grownBy G2.out).block _ (by have := Z1.out; omega)).trans H1.out
  have HPb : Hid (Pb (w.heap.size + 1) w2 32 (List.replicate 32 0) w2) := by
    have h2 := H2.out
    rw [Z1.out] at h2
    exact ⟨rfl, ⟨23, h2⟩, Keeps.refl _ _⟩
  have HB2 : Hid (Below w.heap.size w w2) := (below_of_grownBy G1.out).trans ((below_of_grownBy G2.out).mono (by have := Z1.out; omega))
  rw [show w1.heap.size = w.heap.size + 1 from by rw [Z1.out]]
  clear H1 Z1 G1 H2 Z2 G2
  refine (setQuad_any (w.heap.size + 1) 0 32 32 x _ _ (by omega) HPb.out).mono ?_
  rintro e x4 ⟨rfl, hp⟩
  have HRow : Hid (x4.heap[w.heap.size]? = some (.cells (zbs 32) 23 (0, 0))) := (hp.keeps.block _ (Array.getElem?_eq_some_iff.1 HRow1.out).1 (by show ¬ _ = _; omega)).trans HRow1.out
  have HBel : Hid (Below w.heap.size w x4) := HB2.out.trans (hp.keeps.below HB2.out.size (fun k hlt => by show ¬ _ = _; omega))
  have HQ := Lib.hid hp
  rw [HP.out] at HQ
  clear hp HPb HB2 HRow1 HP
  obtain ⟨L, hL⟩ : ∃ L, L = enc n := ⟨_, rfl⟩
  have HL : Hid (L.length = 32) := by rw [hL]; exact enc_len n
  have HLE : Hid (Value.agg (bcs L).toArray = vN n) := by rw [hL]; rfl
  rw [← hL] at HQ
  clear hL
  obtain ⟨t, ht⟩ := HQ.out.row
  have HT := Lib.hid ht
  clear ht HQ
  go_wp2_with (first | ((with_reducible show wpList _ _ _ (⟨_, .load 23 (.tmp 3), _, _, _, _⟩ :: _) _ _); go_must (refine wpList_load_arr rfl 23 (.tmp 3) rfl (w.heap.size + 1) 0 rfl (bcs L) (fun i u hu => by rw [Nat.zero_add]; exact row_cells HT.out i u (by simpa using hu)) _ under23 rfl (by rw [bcs_len, HL.out]; exact size23) ?_)) | ((with_reducible show wpList _ _ _ (⟨none, .store 23 (.tmp 2) (.tmp 7), _, _, _, _⟩ :: _) _ _); go_must (refine wpList_store_all rfl 23 (.tmp 2) (.tmp 7) rfl (w.heap.size) rfl (bcs L).toArray rfl 23 _ HRow.out (by rw [List.size_toArray, bcs_len, HL.out]; exact size23) (by rw [List.size_toArray, bcs_len, HL.out]; rfl) (bcs_one _) ?_; intro x5 hh hg hz; have HH := Lib.hid hh; have HG := Lib.hid hg; clear hh hg hz)))
  refine bodyPost_ret (results_cell_row rfl _ _ (w.heap.size) 23 (bcs L).toArray _ _ rfl HH.out under23 rfl (by rw [List.size_toArray, bcs_len, HL.out]; exact size23)) rfl ?_
  exact ⟨by rw [HLE.out], HBel.out.grown HG.out HBel.out.size (fun r hr => by injection hr; omega)⟩

/-! The same, of numbers. -/
theorem Of_any (x : Nat) (h : x < 18446744073709551616) (w : World) : Calls Try.prog 17 #[.int .u64 x] w (Gives (vN x) w) := Of_core x x w (Lib.hid (put_of x h))
theorem Rest_any (a : Nat) (ha : a < TT) (w : World) : Calls Try.prog 13 #[vN a] w (Gives (vN (a % PP)) w) :=
  Rest_list (enc a) _ w (Lib.hid (enc_len a)) (by rw [rdw_val, nv_enc a ha]; exact Lib.hid rfl)
theorem Pow_any (a e : Nat) (ha : a < TT) (he : e < TT) (w : World) : Calls Try.prog 27 #[vN a, vN e] w (Gives (vN (a ^ e % PP)) w) :=
  Pow_core (enc a) (enc e) a _ w (Lib.hid (enc_len a)) (Lib.hid (enc_len e)) (Lib.hid (nv_enc a ha)) (by rw [nv_enc e he]; exact Lib.hid rfl)
theorem Add_any (a b : Nat) (ha : a < TT) (hb : b < TT) (w : World) : Calls Try.prog 19 #[vN a, vN b] w (Gives (vN ((a + b) % PP)) w) := by
  have h := Add_list (enc a) (enc b) (enc_len a) (enc_len b) w
  rw [nv_enc a ha, nv_enc b hb] at h
  exact h
theorem Sub_any (a b : Nat) (ha : a < TT) (hb : b < TT) (w : World) : Calls Try.prog 21 #[vN a, vN b] w (Gives (vN ((a + (PP - b % PP)) % PP)) w) := by
  have h := Sub_list (enc a) (enc b) (enc_len a) (enc_len b) w
  rw [nv_enc a ha, nv_enc b hb] at h
  exact h
theorem Mul_any (a b : Nat) (ha : a < TT) (hb : b < TT) (w : World) : Calls Try.prog 25 #[vN a, vN b] w (Gives (vN (a * b % PP)) w) := by
  have h := Mul_list (enc a) (enc b) (enc_len a) (enc_len b) w
  rw [nv_enc a ha, nv_enc b hb] at h
  exact h
end Go.Proofs.Ytgdimnbdnepbgaa
/- Regions whose order is drawn and that only read old memory: steps; numbers in rows and compared. No statement is proved here. -/
namespace Go.Proofs.Ytgdimnbdnepbgaa
open Go.RowKit
set_option linter.unusedVariables false
set_option linter.unusedSimpArgs false
set_option maxRecDepth 40000

/-- A number lies in row g. -/
def NAt (w : World) (g n : Nat) : Prop := ∃ t, w.heap[g]? = some (.cells (bcs (enc n)).toArray t (0, 0))
theorem NAt.lt {w : World} {g n : Nat} (h : NAt w g n) : g < w.heap.size := by
  obtain ⟨t, ht⟩ := h
  exact (Array.getElem?_eq_some_iff.1 ht).1
theorem NAt.below {w w' : World} {g n B : Nat} (h : NAt w g n) (hb : Below B w w') (hg : g < B) : NAt w' g n := by
  obtain ⟨t, ht⟩ := h
  exact ⟨t, (hb.block g hg).trans ht⟩
theorem NAt.keep {w w' : World} {g n : Nat} (h : NAt w g n) (hb : Below w.heap.size w w') : NAt w' g n := h.below hb h.lt
theorem NAt.grown {w w' : World} {g n : Nat} {row : Option Nat} (h : NAt w g n) (hb : w.grownBy w' row) (hg : some g ≠ row) : NAt w' g n := by
  have := h.lt
  obtain ⟨t, ht⟩ := h
  exact ⟨t, (hb.block g this hg).trans ht⟩
theorem NAt.cells {w : World} {g n : Nat} (h : NAt w g n) : ∀ i u, (bcs (enc n))[i]? = some u → w.cell? ⟨g, 0 + i, none⟩ = some u := by
  obtain ⟨t, ht⟩ := h
  intro i u hu
  rw [Nat.zero_add]
  exact row_cells ht i u (by simpa using hu)
theorem bcs_enc_len (n : Nat) : (bcs (enc n)).length = 32 := by rw [bcs_len, enc_len]

theorem exec_load23 {o : Oper} {a : Act} {w : World} (x : Operand) (ho : o.op = .load 23 x) (g n : Nat) (hx : a.eval x = .pointer (some ⟨g, 0, none⟩)) (hr : NAt w g n) : (execOp a.eval o).run Try.prog w = .ok (.value (vN n)) w := by
  have hl : (loadCells ⟨g, 0, none⟩ (bcs (enc n)).length).run Try.prog w = .ok (bcs (enc n)).toArray w :=
    run_loadCells_list (P := Try.prog) w ⟨g, 0, none⟩ (bcs (enc n)) (fun j v hv => by
      have hadd : (⟨g, 0, none⟩ : Addr).add j = ⟨g, 0 + j, none⟩ := by unfold Addr.add; split <;> simp_all
      rw [hadd]
      exact hr.cells j v hv)
  have hagg : (isAgg 23).run Try.prog w = .ok true w := by
    unfold isAgg
    rw [Sem.run_bind, run_underlying under23 w]
    rfl
  have hq : ∃ i, Try.prog.info? 23 = some i ∧ i.size = 32 := by
    have := size23
    cases h : Try.prog.info? 23 with
    | none => rw [h] at this; simp at this
    | some i => exact ⟨i, rfl, by rw [h] at this; simpa using this⟩
  obtain ⟨i, hi, hs⟩ := hq
  have hrun : (Instr.loadAt 23 (.pointer (some ⟨g, 0, none⟩))).run Try.prog w = .ok (vN n) w := by
    rw [bcs_enc_len] at hl
    simp [Instr.loadAt, Instr.sureAddr, loadVar, Sem.run_bind, hagg, sizeOf, typeInfo, hi, hs, hl]
    rfl
  unfold execOp
  simp only [ho, hx, Sem.run_bind, Sem.run_pure, Result.andThen_ok, hrun]
theorem exec_call {P : Program} {o : Oper} {a : Act} {w : World} (f : FuncId) (xs : Array Operand) (ts : Array TypeId) (ho : o.op = .call { callee := .value (.func f), args := xs, argTypes := ts }) (args : Array Value) (hx : xs.map a.eval = args) (hcf : ∀ w, (callFunc f args).run P w = .ok (.enter f args) w) : (execOp a.eval o).run P w = .ok (.enter f args) w := by
  unfold execOp
  simp only [ho, resolve, hx]
  simp only [Act.eval, Deferred.ofValue, Sem.run_bind, Sem.run_pure, Result.andThen_ok, invoke]
  simpa using hcf w
theorem keyLits23 (l : List UInt8) (hl : l.length = 32) : Try.prog.keyLits 2 23 (Value.agg (bcs l).toArray).cells.toList = some (l.map fun b => Lit.int .u8 (b.toNat : Int)) := by
  have h := keyLits_ints (P := Try.prog) (t := 23) (e := 5) (n := 32) (k := .u8) under23 Try.underlying5 (by kernel_rfl) (by kernel_rfl) (l.map fun b => (b.toNat : Int)) (by simpa using hl) (wf8 l)
  rw [← bcs_ints] at h
  rw [show (Value.agg (bcs l).toArray).cells.toList = bcs l from rfl, h, List.map_map]
  rfl
theorem lits_inj (a b : List UInt8) (h : (a.map fun b => Lit.int .u8 (b.toNat : Int)) = b.map fun b => Lit.int .u8 (b.toNat : Int)) : a = b := by
  induction a generalizing b with
  | nil => cases b with
    | nil => rfl
    | cons _ _ => simp at h
  | cons x a ih => cases b with
    | nil => simp at h
    | cons y b =>
      simp only [List.map_cons, List.cons.injEq, Lit.int.injEq, true_and] at h
      rw [ih b h.2, UInt8.toNat_inj.1 (by omega : x.toNat = y.toNat)]
theorem eq23 (a b : List UInt8) (ha : a.length = 32) (hb : b.length = 32) (w : World) : (Op.equalIn 10000 23 (.agg (bcs a).toArray) (.agg (bcs b).toArray)).run Try.prog w = .ok (decide (a = b)) w := by
  have hk : Try.prog.keyTypeAt 2 23 = true := by kernel_rfl
  have hf : ∀ l : List UInt8, l.length = 32 → (Value.agg (bcs l).toArray).formed Try.prog 23 = true := by
    intro l hl
    have hc : Try.prog.cellsOf 23 = 32 := by kernel_rfl
    simp [Value.formed, hc, bcs_len, hl]
  obtain ⟨r, hr, hiff⟩ := run_equalIn_deep (P := Try.prog) 9998 2 23 hk w 2 2 _ _ _ _ (hf a ha) (hf b hb) (keyLits23 a ha) (keyLits23 b hb)
  rw [hr]
  congr 1
  by_cases h : a = b
  · subst h
    rw [decide_eq_true rfl]
    exact hiff.2 rfl
  · rw [decide_eq_false h]
    cases r
    · rfl
    · exact absurd (lits_inj a b (hiff.1 rfl)) h
theorem eqN (m n : Nat) (hm : m < TT) (hn : n < TT) (w : World) : (Op.equalIn 10000 23 (vN m) (vN n)).run Try.prog w = .ok (decide (m = n)) w := by
  have h := eq23 (enc m) (enc n) (enc_len m) (enc_len n) w
  rw [show (Value.agg (bcs (enc m)).toArray) = vN m from rfl, show (Value.agg (bcs (enc n)).toArray) = vN n from rfl] at h
  rw [h]
  congr 1
  rw [Bool.eq_iff_iff, decide_eq_true_eq, decide_eq_true_eq]
  exact ⟨fun h => enc_inj hm hn h, fun h => by rw [h]⟩
theorem eqN_same (n : Nat) (w : World) : (Op.equalIn 10000 23 (vN n) (vN n)).run Try.prog w = .ok true w := by
  have h := eq23 (enc n) (enc n) (enc_len n) (enc_len n) w
  rw [decide_eq_true rfl] at h
  exact h

section
variable {P : Program} {ops : Array Oper} {rest : List Oper} {o : Oper} {a : Act} {w0 : World} {Q : Act → Prop}
abbrev CB (w0 : World) : World → Prop := fun w' => Below w0.heap.size w0 w'
theorem qb_val (hw : Region.wanted o (yielded ops a.tmps) = true) (v : Value) (hv : ∀ w, CB w0 w → (execOp a.eval o).run P w = .ok (.value v) w) (h : wpQuiet P ops (CB w0) Q rest (a.put o.dst v)) : wpQuiet P ops (CB w0) Q (o :: rest) a :=
  wpQuiet_step fun K hK => by
    rw [if_pos hw]
    exact ⟨v, fun w hw' => by unfold Oper.quietAt; rw [hv w hw']; exact ⟨rfl, rfl⟩, hK _ h⟩
theorem qb_skip (hw : Region.wanted o (yielded ops a.tmps) = false) (h : wpQuiet P ops (CB w0) Q rest (a.put o.dst undef)) : wpQuiet P ops (CB w0) Q (o :: rest) a :=
  wpQuiet_step fun K hK => by
    rw [if_neg (by rw [hw]; exact Bool.false_ne_true)]
    exact hK _ h
theorem qb_call (hw : Region.wanted o (yielded ops a.tmps) = true) (f : FuncId) (xs : List Operand) (ts : Array TypeId) (ho : o.op = .call { callee := .value (.func f), args := xs.toArray, argTypes := ts }) (args : List Value) (hx : xs.map a.eval = args) (hcf : ∀ w, (callFunc f args.toArray).run P w = .ok (.enter f args.toArray) w)
    (v : Value) (hc : ∀ w, Calls P f args.toArray w (Gives v w)) (h : wpQuiet P ops (CB w0) Q rest (a.put o.dst v)) : wpQuiet P ops (CB w0) Q (o :: rest) a :=
  wpQuiet_step fun K hK => by
    rw [if_pos hw]
    refine ⟨v, fun w hw' => ?_, hK _ h⟩
    unfold Oper.quietAt
    rw [exec_call f xs.toArray ts ho args.toArray (by rw [List.map_toArray, hx]) hcf]
    refine ⟨rfl, (hc w).mono fun e w'' hg => ⟨hg.1, ?_⟩⟩
    exact hw'.trans (hg.2.mono hw'.size)
theorem qb_move (hw : Region.wanted o (yielded ops a.tmps) = true) (x : Operand) (ho : o.op = .move x) (v : Value) (hx : a.eval x = v) (h : wpQuiet P ops (CB w0) Q rest (a.put o.dst v)) : wpQuiet P ops (CB w0) Q (o :: rest) a :=
  qb_val hw v (fun w _ => by unfold execOp; simp only [ho, hx, Sem.run_pure]) h
theorem qb_assign (hw : Region.wanted o (yielded ops a.tmps) = true) (x : Operand) (ho : o.op = .assign x) (v : Value) (hx : a.eval x = v) (h : wpQuiet P ops (CB w0) Q rest (a.put o.dst v)) : wpQuiet P ops (CB w0) Q (o :: rest) a :=
  qb_val hw v (fun w _ => by unfold execOp; simp only [ho, hx, Sem.run_pure]) h
theorem qb_pick (hw : Region.wanted o (yielded ops a.tmps) = true) (c x y : Operand) (ho : o.op = .pick c x y) (b : Bool) (hc : a.eval c = .bool b) (v : Value) (hx : (if b then a.eval x else a.eval y) = v) (h : wpQuiet P ops (CB w0) Q rest (a.put o.dst v)) : wpQuiet P ops (CB w0) Q (o :: rest) a :=
  qb_val hw v (fun w _ => by unfold execOp; simp only [ho, hc, asBool, Sem.run_bind, Sem.run_pure, Result.andThen_ok, hx]) h
theorem qb_not (hw : Region.wanted o (yielded ops a.tmps) = true) (t : TypeId) (x : Operand) (ho : o.op = .unOp .not t x) (b : Bool) (hx : a.eval x = .bool b) (h : wpQuiet P ops (CB w0) Q rest (a.put o.dst (.bool (!b)))) : wpQuiet P ops (CB w0) Q (o :: rest) a :=
  qb_val hw _ (fun w _ => by unfold execOp; simp only [ho, hx]; rfl) h
end
section
variable {ops : Array Oper} {rest : List Oper} {o : Oper} {a : Act} {w0 : World} {Q : Act → Prop}
theorem qb_load (hw : Region.wanted o (yielded ops a.tmps) = true) (x : Operand) (ho : o.op = .load 23 x) (g n : Nat) (hx : a.eval x = .pointer (some ⟨g, 0, none⟩)) (hr : NAt w0 g n) (h : wpQuiet Try.prog ops (CB w0) Q rest (a.put o.dst (vN n))) : wpQuiet Try.prog ops (CB w0) Q (o :: rest) a :=
  qb_val hw _ (fun w hk => exec_load23 x ho g n hx (hr.keep hk)) h
theorem exec_eq23 {w : World} {m n : Nat} {b : Bool} (x y : Operand) (ho : o.op = .binOp .eql 23 x y 23) (hx : a.eval x = vN m) (hy : a.eval y = vN n) (hb : (Op.equalIn 10000 23 (vN m) (vN n)).run Try.prog w = .ok b w) : (execOp a.eval o).run Try.prog w = .ok (.value (.bool b)) w := by
  have hg : ∀ (x y : Operand), (eqGuard .eql 23 x y (vN m) (vN n)).run Try.prog w = .ok () w := fun x y => run_eqGuard_agg w .eql 23 x y _ _ Try.eqGuardType23
  have hbin : (binOp .eql 23 (vN m) (vN n)).run Try.prog w = .ok (.bool b) w := by
    show (do pure (.bool (← Op.equal 23 (vN m) (vN n))) : Sem Value).run Try.prog w = _
    rw [Sem.run_bind, show (Op.equal 23 (vN m) (vN n)) = Op.equalIn 10000 23 (vN m) (vN n) from rfl, hb]
    rfl
  unfold execOp
  simp only [ho, hx, hy, Sem.run_bind, Sem.run_pure, Result.andThen_ok, hg, hbin]
theorem exec_neq23 {w : World} {m n : Nat} {b : Bool} (x y : Operand) (ho : o.op = .binOp .neq 23 x y 23) (hx : a.eval x = vN m) (hy : a.eval y = vN n) (hb : (Op.equalIn 10000 23 (vN m) (vN n)).run Try.prog w = .ok b w) : (execOp a.eval o).run Try.prog w = .ok (.value (.bool (!b))) w := by
  have hg : ∀ (x y : Operand), (eqGuard .neq 23 x y (vN m) (vN n)).run Try.prog w = .ok () w := fun x y => run_eqGuard_agg w .neq 23 x y _ _ Try.eqGuardType23
  have hbin : (binOp .neq 23 (vN m) (vN n)).run Try.prog w = .ok (.bool (!b)) w := by
    show (do pure (.bool (!(← Op.equal 23 (vN m) (vN n)))) : Sem Value).run Try.prog w = _
    rw [Sem.run_bind, show (Op.equal 23 (vN m) (vN n)) = Op.equalIn 10000 23 (vN m) (vN n) from rfl, hb]
    rfl
  unfold execOp
  simp only [ho, hx, hy, Sem.run_bind, Sem.run_pure, Result.andThen_ok, hg, hbin]
theorem qb_eq (hw : Region.wanted o (yielded ops a.tmps) = true) (x y : Operand) (ho : o.op = .binOp .eql 23 x y 23) (m n : Nat) (hx : a.eval x = vN m) (hy : a.eval y = vN n) (b : Bool) (hb : ∀ w, (Op.equalIn 10000 23 (vN m) (vN n)).run Try.prog w = .ok b w) (h : wpQuiet Try.prog ops (CB w0) Q rest (a.put o.dst (.bool b))) : wpQuiet Try.prog ops (CB w0) Q (o :: rest) a :=
  qb_val hw _ (fun w _ => exec_eq23 x y ho hx hy (hb w)) h
theorem qb_neq (hw : Region.wanted o (yielded ops a.tmps) = true) (x y : Operand) (ho : o.op = .binOp .neq 23 x y 23) (m n : Nat) (hx : a.eval x = vN m) (hy : a.eval y = vN n) (b b' : Bool) (hb : ∀ w, (Op.equalIn 10000 23 (vN m) (vN n)).run Try.prog w = .ok b w) (hb' : (!b) = b') (h : wpQuiet Try.prog ops (CB w0) Q rest (a.put o.dst (.bool b'))) : wpQuiet Try.prog ops (CB w0) Q (o :: rest) a :=
  qb_val hw _ (fun w _ => by rw [← hb']; exact exec_neq23 x y ho hx hy (hb w)) h
theorem run_build0 (w : World) : (Instr.build 23 #[]).run Try.prog w = .ok (vN 0) w := by kernel_rfl
theorem qb_zero (hw : Region.wanted o (yielded ops a.tmps) = true) (ho : o.op = .build 23 #[]) (h : wpQuiet Try.prog ops (CB w0) Q rest (a.put o.dst (vN 0))) : wpQuiet Try.prog ops (CB w0) Q (o :: rest) a :=
  qb_val hw _ (fun w _ => by
    unfold execOp
    simp only [ho, List.map_toArray, List.map_nil, Sem.run_bind, Sem.run_pure, Result.andThen_ok]
    rw [run_build0 w]
    rfl) h
/-- Two Bools compared. -/
theorem qb_eqb {P : Program} (hw : Region.wanted o (yielded ops a.tmps) = true) (x y : Operand) (ho : o.op = .binOp .eql 4 x y 4) (m n b : Bool) (hx : a.eval x = .bool m) (hy : a.eval y = .bool n) (hb : (m == n) = b) (h : wpQuiet Try.prog ops (CB w0) Q rest (a.put o.dst (.bool b))) : wpQuiet Try.prog ops (CB w0) Q (o :: rest) a :=
  qb_val hw _ (fun w _ => by
    subst hb
    unfold execOp
    simp only [ho, hx, hy]
    cases m <;> cases n <;> kernel_rfl) h
theorem region_qb {P : Program} {id : Nat} {Q : Exit → Act → World → Prop} {a : Act} {w : World} {l : List Oper} (hm : P.follows .mixedOrders = true) (hB : Region.lexB .any l.toArray = true)
    (h : wpQuiet P l.toArray (CB w) (fun a' => ∀ w', Below w.heap.size w w' → Q .normal a' w') l a) : (Code.region id l.toArray true).wp P Q a w :=
  wp_region_quiet (C := CB w) hm hB ⟨rfl, rfl, rfl, Nat.le_refl _, fun _ _ => rfl⟩ (by simpa using h)
end

/-! The functions have bodies. -/
theorem callEnter {P : Program} {f : FuncId} {fn : Func} {c : Code} (hf : P.funcs[f]? = some fn) (hname : (fn.name == "runtime.NumGoroutine") = false) (hb : fn.body = some c) (args : Array Value) (w : World) :
    (callFunc f args).run P w = .ok (.enter f args) w := by
  have h1 : fn.name ≠ "runtime.NumGoroutine" := by simpa using hname
  simp [callFunc, hf, h1, hb]
theorem CF9 (args : Array Value) (w : World) : (callFunc 11 args).run Try.prog w = .ok (.enter 11 args) w := callEnter Try.func11 (by kernel_rfl) rfl args w
theorem CF10 (args : Array Value) (w : World) : (callFunc 10 args).run Try.prog w = .ok (.enter 10 args) w := callEnter Try.func10 (by kernel_rfl) rfl args w
theorem CF11 (args : Array Value) (w : World) : (callFunc 13 args).run Try.prog w = .ok (.enter 13 args) w := callEnter Try.func13 (by kernel_rfl) rfl args w
theorem CF12 (args : Array Value) (w : World) : (callFunc 15 args).run Try.prog w = .ok (.enter 15 args) w := callEnter Try.func15 (by kernel_rfl) rfl args w
theorem CF13 (args : Array Value) (w : World) : (callFunc 23 args).run Try.prog w = .ok (.enter 23 args) w := callEnter Try.func23 (by kernel_rfl) rfl args w
theorem CF14 (args : Array Value) (w : World) : (callFunc 17 args).run Try.prog w = .ok (.enter 17 args) w := callEnter Try.func17 (by kernel_rfl) rfl args w
theorem CF15 (args : Array Value) (w : World) : (callFunc 29 args).run Try.prog w = .ok (.enter 29 args) w := callEnter Try.func29 (by kernel_rfl) rfl args w
theorem CF16 (args : Array Value) (w : World) : (callFunc 27 args).run Try.prog w = .ok (.enter 27 args) w := callEnter Try.func27 (by kernel_rfl) rfl args w
theorem CF17 (args : Array Value) (w : World) : (callFunc 31 args).run Try.prog w = .ok (.enter 31 args) w := callEnter Try.func31 (by kernel_rfl) rfl args w
theorem CF18 (args : Array Value) (w : World) : (callFunc 33 args).run Try.prog w = .ok (.enter 33 args) w := callEnter Try.func33 (by kernel_rfl) rfl args w
theorem CF23 (args : Array Value) (w : World) : (callFunc 19 args).run Try.prog w = .ok (.enter 19 args) w := callEnter Try.func19 (by kernel_rfl) rfl args w
theorem CF25 (args : Array Value) (w : World) : (callFunc 21 args).run Try.prog w = .ok (.enter 21 args) w := callEnter Try.func21 (by kernel_rfl) rfl args w
theorem CF28 (args : Array Value) (w : World) : (callFunc 25 args).run Try.prog w = .ok (.enter 25 args) w := callEnter Try.func25 (by kernel_rfl) rfl args w
theorem CF34 (args : Array Value) (w : World) : (callFunc 61 args).run Try.prog w = .ok (.enter 61 args) w := callEnter Try.func61 (by kernel_rfl) rfl args w
theorem CF35 (args : Array Value) (w : World) : (callFunc 62 args).run Try.prog w = .ok (.enter 62 args) w := callEnter Try.func62 (by kernel_rfl) rfl args w
theorem CF36 (args : Array Value) (w : World) : (callFunc 63 args).run Try.prog w = .ok (.enter 63 args) w := callEnter Try.func63 (by kernel_rfl) rfl args w
end Go.Proofs.Ytgdimnbdnepbgaa
/- The field's other functions of one number. No statement is proved here. -/
namespace Go.Proofs.Ytgdimnbdnepbgaa
open Go.RowKit
set_option linter.unusedVariables false
set_option linter.unusedSimpArgs false
set_option maxRecDepth 40000

theorem exec_build0 {o : Oper} {a : Act} {w : World} (ho : o.op = .build 23 #[]) : (execOp a.eval o).run Try.prog w = .ok (.value (vN 0)) w := by
  unfold execOp
  simp only [ho, List.map_toArray, List.map_nil, Sem.run_bind, Sem.run_pure]
  rw [run_build0 w]
  rfl
theorem exec_index0 {o : Oper} {a : Act} {w : World} {r x : Value} (i : Operand) (k : Operand) (ho : o.op = .index 23 i k) (hx : a.eval i = r) (hrun : (Instr.index 23 r (a.eval k)).run Try.prog w = .ok x w) : (execOp a.eval o).run Try.prog w = .ok (.value x) w := by
  unfold execOp
  simp only [ho, hx, Sem.run_bind, Sem.run_pure, Result.andThen_ok, hrun]

set_option maxHeartbeats 400000 in
theorem Canon_core (a r : Nat) (b : Bool) (w : World) (H11 : Hid (∀ w, Calls Try.prog 13 #[vN a] w (Gives (vN r) w))) (HE : Hid (∀ w, (Op.equalIn 10000 23 (vN a) (vN r)).run Try.prog w = .ok b w)) :
    Calls Try.prog 15 #[vN a] w (Gives (.bool b) w) := by
  go_enter Try.func15, Try.ntmps15
  go_wp2_with ((with_reducible show wpList _ _ _ (⟨some 1, .box 23 (.tmp 0), _, _, _, _⟩ :: _) _ _); go_must (refine wpList_box_row rfl 23 (.tmp 0) rfl (bcs (enc a)).toArray rfl ?_; intro w1 h1 z1 g1; have H1 := Lib.hid h1; have Z1 := Lib.hid z1; have G1 := Lib.hid g1; clear h1 z1 g1))
  have R : Hid (NAt w1 w.heap.size a) := ⟨23, H1.out⟩
  have HB : Hid (Below w.heap.size w w1) := below_of_grownBy G1.out
  clear H1 Z1 G1
  refine region_qb (by kernel_rfl) (by kernel_rfl) ?_
  refine qb_load rfl (.tmp 1) rfl (w.heap.size) a rfl R.out ?_
  simp only [Act.put, List.setIfInBounds_toArray, List.set_cons_zero, List.set_cons_succ]
  refine qb_load rfl (.tmp 1) rfl (w.heap.size) a rfl R.out ?_
  simp only [Act.put, List.setIfInBounds_toArray, List.set_cons_zero, List.set_cons_succ]
  refine qb_call rfl 13 [.tmp 4] #[23] rfl [vN a] rfl (CF11 _) (vN r) H11.out ?_
  simp only [Act.put, List.setIfInBounds_toArray, List.set_cons_zero, List.set_cons_succ]
  refine qb_eq rfl (.tmp 3) (.tmp 5) rfl a r rfl rfl b HE.out ?_
  simp only [Act.put, List.setIfInBounds_toArray, List.set_cons_zero, List.set_cons_succ]
  refine qb_assign rfl (.tmp 6) rfl (.bool b) rfl ?_
  simp only [Act.put, List.setIfInBounds_toArray, List.set_cons_zero, List.set_cons_succ]
  refine wpQuiet_nil ?_
  intro w2 hb
  have HB2 : Hid (Below w.heap.size w w2) := HB.out.trans (hb.mono HB.out.size)
  clear hb HB
  go_wp2
  go_ret
  exact ⟨rfl, HB2.out⟩

set_option maxHeartbeats 400000 in
theorem Neg_core (a r : Nat) (w : World) (H25 : Hid (∀ w, Calls Try.prog 21 #[vN 0, vN a] w (Gives (vN r) w))) :
    Calls Try.prog 23 #[vN a] w (Gives (vN r) w) := by
  go_enter Try.func23, Try.ntmps23
  go_wp2_with (first | ((with_reducible show wpList _ _ _ (⟨some 1, .box 23 (.tmp 0), _, _, _, _⟩ :: _) _ _); go_must (refine wpList_box_row rfl 23 (.tmp 0) rfl (bcs (enc a)).toArray rfl ?_; intro w1 h1 z1 g1; have H1 := Lib.hid h1; have Z1 := Lib.hid z1; have G1 := Lib.hid g1; clear h1 z1 g1)) | ((with_reducible show wpList _ _ _ (⟨some 2, .alloc 23, _, _, _, _⟩ :: _) _ _); go_must (refine wpList_alloc_row rfl 23 rfl (.agg (zbs 32)) zero23 ?_; intro w2 h1 z1 g1; have H2 := Lib.hid h1; have Z2 := Lib.hid z1; have G2 := Lib.hid g1; clear h1 z1 g1; have R : Hid (NAt w2 w.heap.size a) := NAt.grown ⟨23, H1.out⟩ G2.out (by simp))) | ((with_reducible show wpList _ _ _ (⟨_, .build 23 _, _, _, _, _⟩ :: _) _ _); go_must (refine wpList_exec rfl (vN 0) (exec_build0 rfl) ?_)) | ((with_reducible show wpList _ _ _ (⟨_, .load 23 (.tmp 1), _, _, _, _⟩ :: _) _ _); go_must (refine wpList_exec rfl (vN a) (exec_load23 (.tmp 1) rfl (w.heap.size) a rfl R.out) ?_)))
  have HB : Hid (Below w.heap.size w w2) := (below_of_grownBy G1.out).trans ((below_of_grownBy G2.out).mono (by have := Z1.out; omega))
  have HR2 : Hid (w2.heap[w.heap.size + 1]? = some (.cells (zbs 32) 23 (0, 0))) := by
    have h := H2.out
    rw [Z1.out] at h
    exact h
  rw [show w1.heap.size = w.heap.size + 1 from Z1.out]
  clear H1 Z1 G1 H2 Z2 G2 R
  refine (H25.out _).mono ?_
  rintro e x4 ⟨rfl, hb⟩
  have HRow : Hid (x4.heap[w.heap.size + 1]? = some (.cells (zbs 32) 23 (0, 0))) := (hb.block _ (Array.getElem?_eq_some_iff.1 HR2.out).1).trans HR2.out
  have HBel : Hid (Below w.heap.size w x4) := HB.out.trans (hb.mono HB.out.size)
  clear hb HB HR2 H25
  go_wp2_with ((with_reducible show wpList _ _ _ (⟨none, .store 23 (.tmp 2) (.tmp 5), _, _, _, _⟩ :: _) _ _); go_must (refine wpList_store_all rfl 23 (.tmp 2) (.tmp 5) rfl (w.heap.size + 1) rfl (bcs (enc r)).toArray rfl 23 _ HRow.out (by rw [List.size_toArray, bcs_enc_len]; exact size23) (by rw [List.size_toArray, bcs_enc_len]; rfl) (bcs_one _) ?_; intro x5 hh hg hz; have HH := Lib.hid hh; have HG := Lib.hid hg; clear hh hg hz))
  refine bodyPost_ret (results_cell_row rfl _ _ (w.heap.size + 1) 23 (bcs (enc r)).toArray _ _ rfl HH.out under23 rfl (by rw [List.size_toArray, bcs_enc_len]; exact size23)) rfl ?_
  exact ⟨rfl, HBel.out.grown HG.out HBel.out.size (fun r hr => by injection hr; omega)⟩

theorem enc_odd (n : Nat) : (bcs (enc n)).toArray[0]? = some (.int .u8 ((UInt8.ofNat (n % 18446744073709551616)).toNat : Int)) := rfl
set_option maxHeartbeats 400000 in
theorem Odd_core (a r : Nat) (b : Bool) (w : World) (H11 : Hid (∀ w, Calls Try.prog 13 #[vN a] w (Gives (vN r) w))) (HI : Hid (∀ w, (Instr.index 23 (vN r) (.int .i64 0)).run Try.prog w = .ok (.int .u8 ((r % 256 : Nat) : Int)) w))
    (HE : Hid ((bits .and .u8 ((r % 256 : Nat) : Int) 1 == 1) = b)) :
    Calls Try.prog 31 #[vN a] w (Gives (.bool b) w) := by
  have hlt : r % 256 < 256 := Nat.mod_lt _ (by omega)
  generalize r % 256 = x at *
  go_enter Try.func31, Try.ntmps31
  go_wp2_with (first | ((with_reducible show wpList _ _ _ (⟨some 1, .box 23 (.tmp 0), _, _, _, _⟩ :: _) _ _); go_must (refine wpList_box_row rfl 23 (.tmp 0) rfl (bcs (enc a)).toArray rfl ?_; intro w1 h1 z1 g1; have H1 := Lib.hid h1; have Z1 := Lib.hid z1; have G1 := Lib.hid g1; clear h1 z1 g1; have R : Hid (NAt w1 w.heap.size a) := ⟨23, H1.out⟩)) | ((with_reducible show wpList _ _ _ (⟨_, .load 23 (.tmp 1), _, _, _, _⟩ :: _) _ _); go_must (refine wpList_exec rfl (vN a) (exec_load23 (.tmp 1) rfl (w.heap.size) a rfl R.out) ?_)))
  have HB : Hid (Below w.heap.size w w1) := below_of_grownBy G1.out
  clear H1 Z1 G1 R
  refine (H11.out _).mono ?_
  rintro e x4 ⟨rfl, hb⟩
  have HBel : Hid (Below w.heap.size w x4) := HB.out.trans (hb.mono HB.out.size)
  clear hb HB H11
  go_wp2_with ((with_reducible show wpList _ _ _ (⟨_, .index 23 (.tmp 4) _, _, _, _, _⟩ :: _) _ _); go_must (refine wpList_exec rfl (.int .u8 (x : Int)) (exec_index0 _ _ rfl rfl (HI.out _)) ?_))
  go_ret
  refine ⟨?_, HBel.out⟩
  exact congrArg (fun x => Ending.returned (.bool x)) HE.out

set_option maxHeartbeats 400000 in
theorem Same_core (a b r s : Nat) (c : Bool) (w : World) (H1 : Hid (∀ w, Calls Try.prog 13 #[vN a] w (Gives (vN r) w))) (H2 : Hid (∀ w, Calls Try.prog 13 #[vN b] w (Gives (vN s) w))) (HE : Hid (∀ w, (Op.equalIn 10000 23 (vN r) (vN s)).run Try.prog w = .ok c w)) :
    Calls Try.prog 33 #[vN a, vN b] w (Gives (.bool c) w) := by
  go_enter Try.func33, Try.ntmps33
  go_wp2_with (first | ((with_reducible show wpList _ _ _ (⟨some 2, .box 23 (.tmp 0), _, _, _, _⟩ :: _) _ _); go_must (refine wpList_box_row rfl 23 (.tmp 0) rfl (bcs (enc a)).toArray rfl ?_; intro w3 h1 z1 g1; have H3 := Lib.hid h1; have Z3 := Lib.hid z1; have G3 := Lib.hid g1; clear h1 z1 g1)) | ((with_reducible show wpList _ _ _ (⟨some 3, .box 23 (.tmp 1), _, _, _, _⟩ :: _) _ _); go_must (refine wpList_box_row rfl 23 (.tmp 1) rfl (bcs (enc b)).toArray rfl ?_; intro w4 h1 z1 g1; have H4 := Lib.hid h1; have Z4 := Lib.hid z1; have G4 := Lib.hid g1; clear h1 z1 g1)))
  have R : Hid (NAt w4 w.heap.size a) := NAt.grown ⟨23, H3.out⟩ G4.out (by simp)
  have S : Hid (NAt w4 (w.heap.size + 1) b) := by
    have h := H4.out
    rw [Z3.out] at h
    exact ⟨23, h⟩
  have HB : Hid (Below w.heap.size w w4) := (below_of_grownBy G3.out).trans ((below_of_grownBy G4.out).mono (by have := Z3.out; omega))
  rw [show w3.heap.size = w.heap.size + 1 from Z3.out]
  clear H3 Z3 G3 H4 Z4 G4
  refine region_qb (by kernel_rfl) (by kernel_rfl) ?_
  refine qb_load rfl (.tmp 2) rfl (w.heap.size) a rfl R.out ?_
  simp only [Act.put, List.setIfInBounds_toArray, List.set_cons_zero, List.set_cons_succ]
  refine qb_call rfl 13 [.tmp 5] #[23] rfl [vN a] rfl (CF11 _) (vN r) H1.out ?_
  simp only [Act.put, List.setIfInBounds_toArray, List.set_cons_zero, List.set_cons_succ]
  refine qb_load rfl (.tmp 3) rfl (w.heap.size + 1) b rfl S.out ?_
  simp only [Act.put, List.setIfInBounds_toArray, List.set_cons_zero, List.set_cons_succ]
  refine qb_call rfl 13 [.tmp 7] #[23] rfl [vN b] rfl (CF11 _) (vN s) H2.out ?_
  simp only [Act.put, List.setIfInBounds_toArray, List.set_cons_zero, List.set_cons_succ]
  refine qb_eq rfl (.tmp 6) (.tmp 8) rfl r s rfl rfl c HE.out ?_
  simp only [Act.put, List.setIfInBounds_toArray, List.set_cons_zero, List.set_cons_succ]
  refine qb_assign rfl (.tmp 9) rfl (.bool c) rfl ?_
  simp only [Act.put, List.setIfInBounds_toArray, List.set_cons_zero, List.set_cons_succ]
  refine wpQuiet_nil ?_
  intro w2 hb
  have HB2 : Hid (Below w.heap.size w w2) := HB.out.trans (hb.mono HB.out.size)
  clear hb HB
  go_wp2
  go_ret
  exact ⟨rfl, HB2.out⟩
end Go.Proofs.Ytgdimnbdnepbgaa
/- The field's ones. No statement is proved here. -/
namespace Go.Proofs.Ytgdimnbdnepbgaa
open Go.RowKit
set_option linter.unusedVariables false
set_option linter.unusedSimpArgs false
set_option maxRecDepth 40000

/-- The first n bytes set. -/
def fl : Nat → List UInt8
  | 0 => List.replicate 32 0
  | n + 1 => (fl n).set n 255
theorem fl_len (n : Nat) : (fl n).length = 32 := by
  induction n with
  | zero => rfl
  | succ n ih => unfold fl; rw [List.length_set]; exact ih
/-- The memory of ones. -/
structure Po (w : World) (l : List UInt8) (w' : World) : Prop where
  row : w'.heap[w.heap.size + 1]? = some (.cells (bcs l).toArray 23 (0, 0))
  res : w'.heap[w.heap.size]? = some (.cells (zbs 32) 23 (0, 0))
  bel : Below w.heap.size w w'
theorem Po.set {w : World} {l : List UInt8} {w' w'' : World} (h : Po w l w') (hg : w'.grownBy w'' (some (w.heap.size + 1))) (l' : List UInt8) (hh : w''.heap[w.heap.size + 1]? = some (.cells (bcs l').toArray 23 (0, 0))) : Po w l' w'' :=
  ⟨hh, (hg.block _ (Array.getElem?_eq_some_iff.1 h.res).1 (by simp)).trans h.res, h.bel.grown hg h.bel.size (fun r hr => by injection hr; omega)⟩

set_option maxHeartbeats 1000000 in
theorem ones_core (f l : UInt8) (n : Nat) (w : World) (HN : Hid (((fl 32).set 0 f).set 31 l = enc n)) : Calls Try.prog 61 #[.int .u8 (f.toNat : Int), .int .u8 (l.toNat : Int)] w (Gives (vN n) w) := by
  go_enter Try.func61, Try.ntmps61
  go_wp2_with (first | ((with_reducible show wpList _ _ _ (⟨some 4, .alloc 23, _, _, _, _⟩ :: _) _ _); go_must (refine wpList_alloc_row rfl 23 rfl (.agg (zbs 32)) zero23 ?_; intro w1 h1 z1 g1; have H1 := Lib.hid h1; have Z1 := Lib.hid z1; have G1 := Lib.hid g1; clear h1 z1 g1)) | ((with_reducible show wpList _ _ _ (⟨some 5, .alloc 23, _, _, _, _⟩ :: _) _ _); go_must (refine wpList_alloc_row rfl 23 rfl (.agg (zbs 32)) zero23 ?_; intro w2 h1 z1 g1; have H2 := Lib.hid h1; have Z2 := Lib.hid z1; have G2 := Lib.hid g1; clear h1 z1 g1)))
  have S : Hid (Po w (fl 0) w2) := by
    refine ⟨?_, ?_, (below_of_grownBy G1.out).trans ((below_of_grownBy G2.out).mono (by have := Z1.out; omega))⟩
    · have h := H2.out
      rw [Z1.out] at h
      exact h
    · exact ((below_of_grownBy G2.out).block _ (by have := Z1.out; omega)).trans H1.out
  rw [show w1.heap.size = w.heap.size + 1 from Z1.out]
  clear H1 Z1 G1 H2 Z2 G2
  go_loopw [6, 7] (fun _ i wr => ∃ n : Nat, n ≤ 32 ∧ i = .int .i64 n ∧ Po w (fl n) wr) (fun _ i _ => 32 - (intOf i).toNat)
  case atStart => exact ⟨0, by omega, rfl, S.out⟩
  case round =>
    obtain ⟨k, hk, rfl, hp⟩ := hrel
    have H := Lib.hid hp
    clear hp S
    by_cases hlt : k < 32
    · have hki : (k : Int) < 32 := by omega
      have HL : Hid ((fl k).length = 32) := fl_len k
      have HE : Hid (fl (k + 1) = (fl k).set k 255) := rfl
      go_wp2_with ((with_reducible show wpList _ _ _ (⟨none, .store 5 (.tmp 11) _, _, _, _, _⟩ :: _) _ _); go_must (refine wpList_store_one rfl 5 (.tmp 11) _ rfl (w.heap.size + 1) k rfl .u8 255 rfl 23 _ H.out.row size5 (by simp only [List.size_toArray, bcs_len]; have := HL.out; omega) ?_; intro y0 hh hg hz; rw [show (255 : Int) = ((255 : UInt8).toNat : Int) from rfl, bcs_set, ← HE.out] at hh; have H2 := Lib.hid (H.out.set hg _ hh); clear hh hg hz H))
      exact ⟨⟨k + 1, by omega, by go_num, H2.out⟩, by simp [intOf]; omega⟩
    · obtain rfl : k = 32 := by omega
      have HL : Hid ((fl 32).length = 32) := fl_len 32
      obtain ⟨M, hM⟩ : ∃ M, M = fl 32 := ⟨_, rfl⟩
      rw [← hM] at H HL HN
      clear hM
      have HL2 : Hid ((M.set 0 f).length = 32) := by rw [List.length_set]; exact HL.out
      go_wp2_with (first | ((with_reducible show wpList _ _ _ (⟨none, .store 5 (.tmp 15) _, _, _, _, _⟩ :: _) _ _); go_must (refine wpList_store_one rfl 5 (.tmp 15) (.tmp 13) rfl (w.heap.size + 1) 0 rfl .u8 _ rfl 23 _ H.out.row size5 (by simp only [List.size_toArray, bcs_len]; have := HL.out; omega) ?_; intro y0 hh hg hz; rw [bcs_set] at hh; have H2 := Lib.hid (H.out.set hg _ hh); clear hh hg hz H)) | ((with_reducible show wpList _ _ _ (⟨none, .store 5 (.tmp 16) _, _, _, _, _⟩ :: _) _ _); go_must (refine wpList_store_one rfl 5 (.tmp 16) (.tmp 14) rfl (w.heap.size + 1) 31 rfl .u8 _ rfl 23 _ H2.out.row size5 (by simp only [List.size_toArray, bcs_len]; have := HL2.out; omega) ?_; intro y1 hh hg hz; rw [bcs_set, HN.out] at hh; have H3 := Lib.hid (H2.out.set hg _ hh); clear hh hg hz H2)) | ((with_reducible show wpList _ _ _ (⟨_, .load 23 (.tmp 5), _, _, _, _⟩ :: _) _ _); go_must (refine wpList_exec rfl (vN n) (exec_load23 (.tmp 5) rfl (w.heap.size + 1) n rfl ⟨23, H3.out.row⟩) ?_)) | ((with_reducible show wpList _ _ _ (⟨none, .store 23 (.tmp 4) (.tmp 17), _, _, _, _⟩ :: _) _ _); go_must (refine wpList_store_all rfl 23 (.tmp 4) (.tmp 17) rfl (w.heap.size) rfl (bcs (enc n)).toArray rfl 23 _ H3.out.res (by rw [List.size_toArray, bcs_enc_len]; exact size23) (by rw [List.size_toArray, bcs_enc_len]; rfl) (bcs_one _) ?_; intro x5 hh hg hz; have HH := Lib.hid hh; have HG := Lib.hid hg; clear hh hg hz)))
      refine bodyPost_ret (results_cell_row rfl _ _ (w.heap.size) 23 (bcs (enc n)).toArray _ _ rfl HH.out under23 rfl (by rw [List.size_toArray, bcs_enc_len]; exact size23)) rfl ?_
      exact ⟨rfl, H3.out.bel.grown HG.out H3.out.bel.size (fun r hr => by injection hr; omega)⟩
/-- p - 2. -/
theorem ones_inv (w : World) : Calls Try.prog 61 #[.int .u8 235, .int .u8 127] w (Gives (vN (PP - 2)) w) := ones_core 235 127 _ w (Lib.hid (show ((fl 32).set 0 235).set 31 127 = enc (PP - 2) by kernel_rfl))
/-- (p + 3) / 8. -/
theorem ones_root (w : World) : Calls Try.prog 61 #[.int .u8 254, .int .u8 15] w (Gives (vN 7237005577332262213973186563042994240829374041602535252466099000494570602494) w) := ones_core 254 15 _ w (Lib.hid (show ((fl 32).set 0 254).set 31 15 = enc 7237005577332262213973186563042994240829374041602535252466099000494570602494 by kernel_rfl))
/-- (p - 1) / 4. -/
theorem ones_quarter (w : World) : Calls Try.prog 61 #[.int .u8 251, .int .u8 31] w (Gives (vN 14474011154664524427946373126085988481658748083205070504932198000989141204987) w) := ones_core 251 31 _ w (Lib.hid (show ((fl 32).set 0 251).set 31 31 = enc 14474011154664524427946373126085988481658748083205070504932198000989141204987 by kernel_rfl))
end Go.Proofs.Ytgdimnbdnepbgaa
/- Regions whose order is drawn and that make and fill rows of numbers: steps. No statement is proved here. -/
namespace Go.Proofs.Ytgdimnbdnepbgaa
open Go.RowKit
set_option linter.unusedVariables false
set_option linter.unusedSimpArgs false
set_option maxRecDepth 40000

/-- A row of a number, zero as yet. -/
def ZAt (w : World) (g : Nat) : Prop := w.heap[g]? = some (.cells (zbs 32) 23 (0, 0))
theorem ZAt.lt {w : World} {g : Nat} (h : ZAt w g) : g < w.heap.size := (Array.getElem?_eq_some_iff.1 h).1
theorem ZAt.keep {w w' : World} {g : Nat} (h : ZAt w g) (hb : Below w.heap.size w w') : ZAt w' g := (hb.block g h.lt).trans h
theorem ZAt.grown {w w' : World} {g : Nat} {row : Option Nat} (h : ZAt w g) (hb : w.grownBy w' row) (hg : some g ≠ row) : ZAt w' g := (hb.block g h.lt hg).trans h
theorem alloc_zero (w : World) : ∃ w', w' = w.alloc (.cells (Value.agg (zbs 32)).cells 23) ∧ Below w.heap.size w w' ∧ ZAt w' w.heap.size := ⟨_, rfl, below_alloc _ _, heap_alloc_new _ _⟩
theorem exec_callL {P : Program} {o : Oper} {a : Act} {w : World} (f : FuncId) (xs : List Operand) (ts : Array TypeId) (ho : o.op = .call { callee := .value (.func f), args := xs.toArray, argTypes := ts }) (args : List Value) (hx : xs.map a.eval = args) (hcf : ∀ w, (callFunc f args.toArray).run P w = .ok (.enter f args.toArray) w) : (execOp a.eval o).run P w = .ok (.enter f args.toArray) w :=
  exec_call f xs.toArray ts ho args.toArray (by rw [List.map_toArray, hx]) hcf
theorem exec_move {P : Program} {o : Oper} {a : Act} {w : World} (x : Operand) (ho : o.op = .move x) (v : Value) (hx : a.eval x = v) : (execOp a.eval o).run P w = .ok (.value v) w := by
  unfold execOp
  simp only [ho, hx, Sem.run_pure]
theorem exec_moveA {P : Program} {o : Oper} {a : Act} {w : World} (x : Operand) (ho : o.op = .assign x) (v : Value) (hx : a.eval x = v) : (execOp a.eval o).run P w = .ok (.value v) w := by
  unfold execOp
  simp only [ho, hx, Sem.run_pure]
theorem region_split {P : Program} {c : Code} {Q : Exit → Act → World → Prop} {a : Act} {w : World} (R : Act → World → Prop) (h1 : c.wp P (fun x a w => x = .normal ∧ R a w) a w) (h2 : ∀ a w, R a w → Q .normal a w) : c.wp P Q a w :=
  wp_mono h1 fun e a w ⟨he, hr⟩ => by subst he; exact h2 a w hr
end Go.Proofs.Ytgdimnbdnepbgaa
/- The field's Inv, even, Root. No statement is proved here. -/
namespace Go.Proofs.Ytgdimnbdnepbgaa
open Go.RowKit
set_option linter.unusedVariables false
set_option linter.unusedSimpArgs false
set_option maxRecDepth 40000


set_option maxHeartbeats 1000000 in
theorem Inv_core (a e r : Nat) (w : World) (HO : Hid (∀ w, Calls Try.prog 61 #[.int .u8 235, .int .u8 127] w (Gives (vN e) w))) (HP : Hid (∀ w, Calls Try.prog 27 #[vN a, vN e] w (Gives (vN r) w))) :
    Calls Try.prog 29 #[vN a] w (Gives (vN r) w) := by
  go_enter Try.func29, Try.ntmps29
  go_wp2_with (first | ((with_reducible show wpList _ _ _ (⟨some 1, .box 23 (.tmp 0), _, _, _, _⟩ :: _) _ _); go_must (refine wpList_box_row rfl 23 (.tmp 0) rfl (bcs (enc a)).toArray rfl ?_; intro w1 h1 z1 g1; have H1 := Lib.hid h1; have Z1 := Lib.hid z1; have G1 := Lib.hid g1; clear h1 z1 g1)) | ((with_reducible show wpList _ _ _ (⟨some 2, .alloc 23, _, _, _, _⟩ :: _) _ _); go_must (refine wpList_alloc_row rfl 23 rfl (.agg (zbs 32)) zero23 ?_; intro w2 h1 z1 g1; have H2 := Lib.hid h1; have Z2 := Lib.hid z1; have G2 := Lib.hid g1; clear h1 z1 g1)))
  have R : Hid (NAt w2 w.heap.size a) := NAt.grown ⟨23, H1.out⟩ G2.out (by simp)
  have HB : Hid (Below w.heap.size w w2) := (below_of_grownBy G1.out).trans ((below_of_grownBy G2.out).mono (by have := Z1.out; omega))
  have Z : Hid (ZAt w2 (w.heap.size + 1)) := by
    have h := H2.out
    rw [Z1.out] at h
    exact h
  rw [show w1.heap.size = w.heap.size + 1 from Z1.out]
  have HLTwheapsize : Hid (w.heap.size < w2.heap.size) := R.out.lt
  have HLTwheapsizep1 : Hid (w.heap.size + 1 < w2.heap.size) := Z.out.lt
  clear H1 Z1 G1 H2 Z2 G2
  refine region_split (fun a' W => NAt W (w.heap.size + 1) r ∧ Below w.heap.size w W ∧ a' = ⟨#[vN a, .pointer (some ⟨w.heap.size, 0, none⟩), .pointer (some ⟨w.heap.size + 1, 0, none⟩), vN a, vN e, vN r], []⟩) ?_ ?_
  · refine startW (fun j => j == 3) (w2.heap.size) (by kernel_rfl) ?_
    obtain ⟨D1, hD1⟩ : ∃ D, D = w2.drew := ⟨_, rfl⟩
    rw [← hD1]
    have HLD1 : Hid (w2.heap.size ≤ D1.heap.size) := Lib.hid (by rw [hD1]; exact Nat.le_refl _)
    have HBD1 : Hid (Below w.heap.size w D1) := Lib.hid (by rw [hD1]; exact below_drewN' HB.out 1)
    have R0D1 : Hid (NAt D1 (w.heap.size) a) := Lib.hid (by rw [hD1]; exact R.out)
    have Z0D1 : Hid (ZAt D1 (w.heap.size + 1)) := Lib.hid (by rw [hD1]; exact Z.out)
    clear hD1
    refine takeT (i := 0) (oi := { dst := some 3, op := Op.load 23 (Operand.tmp 1), type := 23, pos := "field.go:66", after := #[], guard := none }) (vN a) rfl (by kernel_rfl) (by kernel_rfl) (by kernel_rfl) (by kernel_rfl) (by kernel_rfl) (fun _ _ _ h => nomatch h.1) (by rfl) (fun w' hk => exec_load23 (.tmp 1) rfl (w.heap.size) a rfl (R0D1.out.below hk HLTwheapsize.out)) ?_
    simp only [Act.put, List.setIfInBounds_toArray, List.set_cons_zero, List.set_cons_succ]
    refine callW (i := 1) (oi := { dst := some 4, op := Op.call { callee := Callee.value (Operand.func 61), args := #[Operand.const (Value.int IntKind.u8 235), Operand.const (Value.int IntKind.u8 127)], argTypes := #[5, 5] }, type := 23, pos := "field.go:66", after := #[], guard := none }) rfl (by kernel_rfl) (by rfl) (exec_callL 61 [.const (.int .u8 235), .const (.int .u8 127)] #[5, 5] rfl [.int .u8 235, .int .u8 127] rfl (CF34 _)) ((HO.out D1).mono ?_)
    rintro eW2 W2 ⟨rfl, hbW2⟩
    refine ⟨_, rfl, fun _ => hbW2.mono HLD1.out, ?_⟩
    have HBW2 : Hid (Below w.heap.size w W2) := Lib.hid (HBD1.out.trans (hbW2.mono HBD1.out.size))
    have HLW2 : Hid (w2.heap.size ≤ W2.heap.size) := Lib.hid (Nat.le_trans HLD1.out hbW2.size)
    have R0D1_W2 := Lib.hid (R0D1.out.keep hbW2)
    have Z0D1_W2 := Lib.hid (Z0D1.out.keep hbW2)
    clear hbW2 HBD1 HLD1 R0D1 Z0D1
    simp only [Act.put, List.setIfInBounds_toArray, List.set_cons_zero, List.set_cons_succ]
    refine callW (i := 2) (oi := { dst := some 5, op := Op.call { callee := Callee.value (Operand.func 27), args := #[Operand.tmp 3, Operand.tmp 4], argTypes := #[23, 23] }, type := 23, pos := "field.go:66", after := #[{ on := 0, ground := Ground.data }, { on := 1, ground := Ground.data }, { on := 1, ground := Ground.chain }], guard := none }) rfl (by kernel_rfl) (by rfl) (exec_callL 27 [.tmp 3, .tmp 4] #[23, 23] rfl [vN a, vN e] rfl (CF16 _)) ((HP.out W2).mono ?_)
    rintro eW3 W3 ⟨rfl, hbW3⟩
    refine ⟨_, rfl, fun _ => hbW3.mono HLW2.out, ?_⟩
    have HBW3 : Hid (Below w.heap.size w W3) := Lib.hid (HBW2.out.trans (hbW3.mono HBW2.out.size))
    have HLW3 : Hid (w2.heap.size ≤ W3.heap.size) := Lib.hid (Nat.le_trans HLW2.out hbW3.size)
    have R0D1_W3 := Lib.hid (R0D1_W2.out.keep hbW3)
    have Z0D1_W3 := Lib.hid (Z0D1_W2.out.keep hbW3)
    clear hbW3 HBW2 HLW2 R0D1_W2 Z0D1_W2
    simp only [Act.put, List.setIfInBounds_toArray, List.set_cons_zero, List.set_cons_succ]
    refine storeW_all (i := 3) (oi := { dst := none, op := Op.store 23 (Operand.tmp 2) (Operand.tmp 5), type := 0, pos := "field.go:66", after := #[{ on := 2, ground := Ground.data }, { on := 2, ground := Ground.chain }, { on := 0, ground := Ground.phase }, { on := 1, ground := Ground.phase }, { on := 2, ground := Ground.phase }], guard := none }) rfl (by kernel_rfl) (by rfl) 23 (.tmp 2) (.tmp 5) rfl (w.heap.size + 1) rfl (bcs (enc r)).toArray rfl 23 _ Z0D1_W3.out (by rw [List.size_toArray, bcs_enc_len]; exact size23) (by rw [List.size_toArray, bcs_enc_len]; rfl) (bcs_one _) rfl ?_
    intro W4 hhW4 hgW4 hzW4
    simp only [Act.put, List.setIfInBounds_toArray, List.set_cons_zero, List.set_cons_succ]
    have R0D1_W4 := Lib.hid (R0D1_W3.out.grown hgW4 (by simp))
    have Swheapsizep1_W4 : Hid (NAt W4 (w.heap.size + 1) r) := Lib.hid ⟨23, hhW4⟩
    have HBW4 : Hid (Below w.heap.size w W4) := Lib.hid (HBW3.out.grown hgW4 HBW3.out.size (fun r hr => by injection hr with hr; omega))
    have HLW4 : Hid (w2.heap.size ≤ W4.heap.size) := Lib.hid (Nat.le_trans HLW3.out hgW4.size)
    clear hhW4 hgW4 hzW4 HBW3 HLW3 R0D1_W3 Z0D1_W3
    refine doneW (by kernel_rfl) ⟨rfl, ?_⟩ _
    exact ⟨Swheapsizep1_W4.out, HBW4.out, rfl⟩
  rintro a' W ⟨⟨t, ht⟩, hb, rfl⟩
  have HH := Lib.hid ht
  have HBel := Lib.hid hb
  clear ht hb R HB Z HLTwheapsize HLTwheapsizep1 HO HP
  go_wp2
  refine bodyPost_ret (results_cell_row rfl _ _ (w.heap.size + 1) t (bcs (enc r)).toArray _ _ rfl HH.out under23 rfl (by rw [List.size_toArray, bcs_enc_len]; exact size23)) rfl ?_
  exact ⟨rfl, HBel.out⟩


set_option maxHeartbeats 1000000 in
theorem even_core (a m r : Nat) (b : Bool) (w : World) (HOd : Hid (∀ w, Calls Try.prog 31 #[vN a] w (Gives (.bool b) w))) (HN : Hid (∀ w, Calls Try.prog 23 #[vN a] w (Gives (vN m) w))) (HR : Hid ((if b then m else a) = r)) :
    Calls Try.prog 62 #[vN a] w (Gives (vN r) w) := by
  go_enter Try.func62, Try.ntmps62
  go_wp2_with (first | ((with_reducible show wpList _ _ _ (⟨some 1, .box 23 (.tmp 0), _, _, _, _⟩ :: _) _ _); go_must (refine wpList_box_row rfl 23 (.tmp 0) rfl (bcs (enc a)).toArray rfl ?_; intro w1 h1 z1 g1; have H1 := Lib.hid h1; have Z1 := Lib.hid z1; have G1 := Lib.hid g1; clear h1 z1 g1)) | ((with_reducible show wpList _ _ _ (⟨some 2, .alloc 23, _, _, _, _⟩ :: _) _ _); go_must (refine wpList_alloc_row rfl 23 rfl (.agg (zbs 32)) zero23 ?_; intro w2 h1 z1 g1; have H2 := Lib.hid h1; have Z2 := Lib.hid z1; have G2 := Lib.hid g1; clear h1 z1 g1; have R : Hid (NAt w2 w.heap.size a) := NAt.grown ⟨23, H1.out⟩ G2.out (by simp))) | ((with_reducible show wpList _ _ _ (⟨_, .load 23 (.tmp 1), _, _, _, _⟩ :: _) _ _); go_must (refine wpList_exec rfl (vN a) (exec_load23 (.tmp 1) rfl (w.heap.size) a rfl R.out) ?_)))
  have HB : Hid (Below w.heap.size w w2) := (below_of_grownBy G1.out).trans ((below_of_grownBy G2.out).mono (by have := Z1.out; omega))
  have Z : Hid (ZAt w2 (w.heap.size + 1)) := by
    have h := H2.out
    rw [Z1.out] at h
    exact h
  rw [show w1.heap.size = w.heap.size + 1 from Z1.out]
  clear H1 Z1 G1 H2 Z2 G2
  refine (HOd.out _).mono ?_
  rintro e x1 ⟨rfl, hb⟩
  have R1 := Lib.hid (R.out.keep hb)
  have Z1 := Lib.hid (Z.out.keep hb)
  have HB1 := Lib.hid (HB.out.trans (hb.mono HB.out.size))
  clear hb R Z HB HOd
  cases b
  · have hr : a = r := HR.out
    subst hr
    have HRow : Hid (x1.heap[w.heap.size + 1]? = some (.cells (zbs 32) 23 (0, 0))) := Z1.out
    have HBel := HB1
    clear HR
    go_wp2_with (first | ((with_reducible show wpList _ _ _ (⟨_, .load 23 (.tmp 1), _, _, _, _⟩ :: _) _ _); go_must (refine wpList_exec rfl (vN a) (exec_load23 (.tmp 1) rfl (w.heap.size) a rfl R1.out) ?_)) | ((with_reducible show wpList _ _ _ (⟨none, .store 23 (.tmp 2) (.tmp 7), _, _, _, _⟩ :: _) _ _); go_must (refine wpList_store_all rfl 23 (.tmp 2) (.tmp 7) rfl (w.heap.size + 1) rfl (bcs (enc a)).toArray rfl 23 _ HRow.out (by rw [List.size_toArray, bcs_enc_len]; exact size23) (by rw [List.size_toArray, bcs_enc_len]; rfl) (bcs_one _) ?_; intro x5 hh hg hz; have HH := Lib.hid hh; have HG := Lib.hid hg; clear hh hg hz)))
    refine bodyPost_ret (results_cell_row rfl _ _ (w.heap.size + 1) 23 (bcs (enc a)).toArray _ _ rfl HH.out under23 rfl (by rw [List.size_toArray, bcs_enc_len]; exact size23)) rfl ?_
    exact ⟨rfl, HBel.out.grown HG.out HBel.out.size (fun r hr => by injection hr; omega)⟩
  · have hr : m = r := HR.out
    subst hr
    clear HR
    go_wp2_with ((with_reducible show wpList _ _ _ (⟨_, .load 23 (.tmp 1), _, _, _, _⟩ :: _) _ _); go_must (refine wpList_exec rfl (vN a) (exec_load23 (.tmp 1) rfl (w.heap.size) a rfl R1.out) ?_))
    refine (HN.out _).mono ?_
    rintro e x2 ⟨rfl, hb⟩
    have HRow : Hid (x2.heap[w.heap.size + 1]? = some (.cells (zbs 32) 23 (0, 0))) := Z1.out.keep hb
    have HBel := Lib.hid (HB1.out.trans (hb.mono HB1.out.size))
    clear hb R1 Z1 HB1 HN
    go_wp2_with ((with_reducible show wpList _ _ _ (⟨none, .store 23 (.tmp 2) (.tmp 6), _, _, _, _⟩ :: _) _ _); go_must (refine wpList_store_all rfl 23 (.tmp 2) (.tmp 6) rfl (w.heap.size + 1) rfl (bcs (enc m)).toArray rfl 23 _ HRow.out (by rw [List.size_toArray, bcs_enc_len]; exact size23) (by rw [List.size_toArray, bcs_enc_len]; rfl) (bcs_one _) ?_; intro x5 hh hg hz; have HH := Lib.hid hh; have HG := Lib.hid hg; clear hh hg hz))
    refine bodyPost_ret (results_cell_row rfl _ _ (w.heap.size + 1) 23 (bcs (enc m)).toArray _ _ rfl HH.out under23 rfl (by rw [List.size_toArray, bcs_enc_len]; exact size23)) rfl ?_
    exact ⟨rfl, HBel.out.grown HG.out HBel.out.size (fun r hr => by injection hr; omega)⟩


set_option maxHeartbeats 1000000 in
theorem rootOfMinusOne_core (e r : Nat) (w : World) (HOf : Hid (∀ w, Calls Try.prog 17 #[.int .u64 2] w (Gives (vN 2) w))) (HO : Hid (∀ w, Calls Try.prog 61 #[.int .u8 251, .int .u8 31] w (Gives (vN e) w))) (HP : Hid (∀ w, Calls Try.prog 27 #[vN 2, vN e] w (Gives (vN r) w))) :
    Calls Try.prog 63 #[] w (Gives (vN r) w) := by
  go_enter Try.func63, Try.ntmps63
  go_wp2_with ((with_reducible show wpList _ _ _ (⟨some 0, .alloc 23, _, _, _, _⟩ :: _) _ _); go_must (refine wpList_alloc_row rfl 23 rfl (.agg (zbs 32)) zero23 ?_; intro w1 h1 z1 g1; have H1 := Lib.hid h1; have Z1 := Lib.hid z1; have G1 := Lib.hid g1; clear h1 z1 g1))
  have Z : Hid (ZAt w1 w.heap.size) := H1.out
  have HB : Hid (Below w.heap.size w w1) := below_of_grownBy G1.out
  clear H1 Z1 G1
  refine (HOf.out _).mono ?_
  rintro e x1 ⟨rfl, hb⟩
  have Z1 := Lib.hid (Z.out.keep hb)
  have HB1 := Lib.hid (HB.out.trans (hb.mono HB.out.size))
  clear hb Z HB HOf
  go_wp2_with fail
  refine (HO.out _).mono ?_
  rintro e x2 ⟨rfl, hb⟩
  have Z2 := Lib.hid (Z1.out.keep hb)
  have HB2 := Lib.hid (HB1.out.trans (hb.mono HB1.out.size))
  clear hb Z1 HB1 HO
  go_wp2_with fail
  refine (HP.out _).mono ?_
  rintro e x3 ⟨rfl, hb⟩
  have HRow : Hid (x3.heap[w.heap.size]? = some (.cells (zbs 32) 23 (0, 0))) := Z2.out.keep hb
  have HBel := Lib.hid (HB2.out.trans (hb.mono HB2.out.size))
  clear hb Z2 HB2 HP
  go_wp2_with ((with_reducible show wpList _ _ _ (⟨none, .store 23 (.tmp 0) (.tmp 3), _, _, _, _⟩ :: _) _ _); go_must (refine wpList_store_all rfl 23 (.tmp 0) (.tmp 3) rfl (w.heap.size) rfl (bcs (enc r)).toArray rfl 23 _ HRow.out (by rw [List.size_toArray, bcs_enc_len]; exact size23) (by rw [List.size_toArray, bcs_enc_len]; rfl) (bcs_one _) ?_; intro x5 hh hg hz; have HH := Lib.hid hh; have HG := Lib.hid hg; clear hh hg hz))
  refine bodyPost_ret (results_cell_row rfl _ _ (w.heap.size) 23 (bcs (enc r)).toArray _ _ rfl HH.out under23 rfl (by rw [List.size_toArray, bcs_enc_len]; exact size23)) rfl ?_
  exact ⟨rfl, HBel.out.grown HG.out HBel.out.size (fun r hr => by injection hr; omega)⟩

end Go.Proofs.Ytgdimnbdnepbgaa
/- The field's Root. No statement is proved here. -/
namespace Go.Proofs.Ytgdimnbdnepbgaa
open Go.RowKit
set_option linter.unusedVariables false
set_option linter.unusedSimpArgs false
set_option maxRecDepth 40000


/-- Two results: the first in a cell, the second in a slot. -/
theorem results_cell2 {P : Program} {fn : Func} {p : Tmp} {ty : TypeId} {q : Tmp} (h : fn.results = #[.cell p ty, .tmp q]) (tmps : Array Value) (w : World) (g : Nat) (t : TypeId) (cs : Array Value) (fr : Nat × Nat) (d : TypeDesc)
    (hp : tmps.getD p undef = .pointer (some ⟨g, 0, none⟩)) (hg : w.heap[g]? = some (.cells cs t fr)) (hu : P.underlying ty = some d) (hd : (match d with | .struct _ | .array _ _ => true | _ => false) = true) (hi : (P.info? ty).map (·.size) = some cs.size) :
    (results fn tmps).run P w = .ok (.tuple #[.agg cs, tmps.getD q undef]) w := by
  have hp' : tmps[p]?.getD undef = .pointer (some ⟨g, 0, none⟩) := by simpa using hp
  simp [results, h, hp', asAddr, run_loadVar_row w g t ty cs fr d hg hu hd hi]


set_option maxHeartbeats 4000000 in
theorem Root_core (a c e r m n i u v1 v2 x : Nat) (b1 b2 ok : Bool) (w : World)
    (H11 : Hid (∀ w, Calls Try.prog 13 #[vN a] w (Gives (vN c) w)))
    (HO : Hid (∀ w, Calls Try.prog 61 #[.int .u8 254, .int .u8 15] w (Gives (vN e) w)))
    (HP : Hid (∀ w, Calls Try.prog 27 #[vN c, vN e] w (Gives (vN r) w)))
    (HM : Hid (∀ w, Calls Try.prog 25 #[vN r, vN r] w (Gives (vN m) w)))
    (HE1 : Hid (∀ w, (Op.equalIn 10000 23 (vN m) (vN c)).run Try.prog w = .ok b1 w))
    (HEv : Hid (∀ w, Calls Try.prog 62 #[vN r] w (Gives (vN v1) w)))
    (HN : Hid (∀ w, Calls Try.prog 23 #[vN c] w (Gives (vN n) w)))
    (HE2 : Hid (∀ w, (Op.equalIn 10000 23 (vN m) (vN n)).run Try.prog w = .ok b2 w))
    (H36 : Hid (∀ w, Calls Try.prog 63 #[] w (Gives (vN i) w)))
    (HM2 : Hid (∀ w, Calls Try.prog 25 #[vN r, vN i] w (Gives (vN u) w)))
    (HEv2 : Hid (∀ w, Calls Try.prog 62 #[vN u] w (Gives (vN v2) w)))
    (HX : Hid ((x, ok) = (if b1 then (v1, true) else if b2 then (v2, true) else (0, false)))) :
    Calls Try.prog 11 #[vN a] w (Gives (.tuple #[vN x, .bool ok]) w) := by
  go_enter Try.func11, Try.ntmps11
  go_wp2_with (first | ((with_reducible show wpList _ _ _ (⟨some 1, .box 23 (.tmp 0), _, _, _, _⟩ :: _) _ _); go_must (refine wpList_box_row rfl 23 (.tmp 0) rfl (bcs (enc a)).toArray rfl ?_; intro w1 h1 z1 g1; have H1 := Lib.hid h1; have Z1 := Lib.hid z1; have G1 := Lib.hid g1; clear h1 z1 g1)) | ((with_reducible show wpList _ _ _ (⟨some 2, .alloc 23, _, _, _, _⟩ :: _) _ _); go_must (refine wpList_alloc_row rfl 23 rfl (.agg (zbs 32)) zero23 ?_; intro w2 h1 z1 g1; have H2 := Lib.hid h1; have Z2 := Lib.hid z1; have G2 := Lib.hid g1; clear h1 z1 g1; have R : Hid (NAt w2 w.heap.size a) := NAt.grown ⟨23, H1.out⟩ G2.out (by simp))) | ((with_reducible show wpList _ _ _ (⟨_, .load 23 (.tmp 1), _, _, _, _⟩ :: _) _ _); go_must (refine wpList_exec rfl (vN a) (exec_load23 (.tmp 1) rfl (w.heap.size) a rfl R.out) ?_)))
  have HB0 : Hid (Below w.heap.size w w2) := (below_of_grownBy G1.out).trans ((below_of_grownBy G2.out).mono (by have := Z1.out; omega))
  have Z0 : Hid (ZAt w2 (w.heap.size + 1)) := by
    have h := H2.out
    rw [Z1.out] at h
    exact h
  rw [show w1.heap.size = w.heap.size + 1 from Z1.out]
  clear H1 Z1 G1 H2 Z2 G2
  refine (H11.out _).mono ?_
  rintro ex x1 ⟨rfl, hb⟩
  have R1 := Lib.hid (R.out.keep hb)
  have Z1 := Lib.hid (Z0.out.keep hb)
  have HB1 := Lib.hid (HB0.out.trans (hb.mono HB0.out.size))
  clear hb R Z0 HB0 H11
  obtain ⟨tr, htr⟩ := R1.out
  have HTR := Lib.hid htr
  clear htr
  go_wp2_with ((with_reducible show wpList _ _ _ (⟨none, .store 23 (.tmp 1) (.tmp 6), _, _, _, _⟩ :: _) _ _); go_must (refine wpList_store_all rfl 23 (.tmp 1) (.tmp 6) rfl (w.heap.size) rfl (bcs (enc c)).toArray rfl tr _ HTR.out (by rw [List.size_toArray, bcs_enc_len]; exact size23) (by rw [List.size_toArray, List.size_toArray, bcs_enc_len, bcs_enc_len]) (bcs_one _) ?_; intro x2 hh hg hz; have R : Hid (NAt x2 w.heap.size c) := ⟨tr, hh⟩; have Z : Hid (ZAt x2 (w.heap.size + 1)) := Z1.out.grown hg (by simp); have HB : Hid (Below w.heap.size w x2) := HB1.out.grown hg HB1.out.size (fun r hr => by injection hr with hr; omega); clear hh hg hz R1 Z1 HB1 HTR))
  have HLTwheapsize : Hid (w.heap.size < x2.heap.size) := R.out.lt
  have HLTwheapsizep1 : Hid (w.heap.size + 1 < x2.heap.size) := Z.out.lt
  refine region_split (fun a' W => ∃ g, NAt W w.heap.size c ∧ ZAt W (w.heap.size + 1) ∧ NAt W g r ∧ x2.heap.size ≤ g ∧ Below w.heap.size w W ∧ a' = ⟨#[vN a, .pointer (some ⟨w.heap.size, 0, none⟩), .pointer (some ⟨w.heap.size + 1, 0, none⟩), .bool false, .pointer (some ⟨g, 0, none⟩), vN a, vN c, vN c, vN e, vN r, undef, undef, undef, undef, undef, undef, undef, undef, undef, undef, undef, undef, undef, undef, undef, undef, undef], []⟩) ?_ ?_
  · refine startW (fun j => j == 4) (x2.heap.size) (by kernel_rfl) ?_
    obtain ⟨D1, hD1⟩ : ∃ D, D = x2.drew := ⟨_, rfl⟩
    rw [← hD1]
    have HLD1 : Hid (x2.heap.size ≤ D1.heap.size) := Lib.hid (by rw [hD1]; exact Nat.le_refl _)
    have HBD1 : Hid (Below w.heap.size w D1) := Lib.hid (by rw [hD1]; exact below_drewN' HB.out 1)
    have R0D1 : Hid (NAt D1 (w.heap.size) c) := Lib.hid (by rw [hD1]; exact R.out)
    have Z0D1 : Hid (ZAt D1 (w.heap.size + 1)) := Lib.hid (by rw [hD1]; exact Z.out)
    clear hD1
    refine takeT (i := 0) (oi := { dst := some 7, op := Op.load 23 (Operand.tmp 1), type := 23, pos := "field.go:73", after := #[], guard := none }) (vN c) rfl (by kernel_rfl) (by kernel_rfl) (by kernel_rfl) (by kernel_rfl) (by kernel_rfl) (fun _ _ _ h => nomatch h.1) (by rfl) (fun w' hk => exec_load23 (.tmp 1) rfl (w.heap.size) c rfl (R0D1.out.below hk HLTwheapsize.out)) ?_
    simp only [Act.put, List.setIfInBounds_toArray, List.set_cons_zero, List.set_cons_succ]
    refine eachW [1, 3] (by kernel_rfl) (by simp) ?_
    intro k hk
    simp only [List.mem_cons, List.not_mem_nil, or_false] at hk
    rcases hk with rfl | rfl
    · refine wpOp_call (i := 1) (oi := { dst := some 8, op := Op.call { callee := Callee.value (Operand.func 61), args := #[Operand.const (Value.int IntKind.u8 254), Operand.const (Value.int IntKind.u8 15)], argTypes := #[5, 5] }, type := 23, pos := "field.go:73", after := #[], guard := none }) rfl (by rfl) (exec_callL 61 [.const (.int .u8 254), .const (.int .u8 15)] #[5, 5] rfl [.int .u8 254, .int .u8 15] rfl (CF34 _)) ((HO.out D1).mono ?_)
      rintro eW2 W2 ⟨rfl, hbW2⟩
      refine ⟨_, rfl, fun _ => hbW2.mono HLD1.out, ?_⟩
      have HBW2 : Hid (Below w.heap.size w W2) := Lib.hid (HBD1.out.trans (hbW2.mono HBD1.out.size))
      have HLW2 : Hid (x2.heap.size ≤ W2.heap.size) := Lib.hid (Nat.le_trans HLD1.out hbW2.size)
      have R0D1_W2 := Lib.hid (R0D1.out.keep hbW2)
      have Z0D1_W2 := Lib.hid (Z0D1.out.keep hbW2)
      clear hbW2 HBD1 HLD1 R0D1 Z0D1
      simp only [Act.put, List.setIfInBounds_toArray, List.set_cons_zero, List.set_cons_succ]
      refine eachW [2, 3] (by kernel_rfl) (by simp) ?_
      intro k hk
      simp only [List.mem_cons, List.not_mem_nil, or_false] at hk
      rcases hk with rfl | rfl
      · refine wpOp_call (i := 2) (oi := { dst := some 9, op := Op.call { callee := Callee.value (Operand.func 27), args := #[Operand.tmp 7, Operand.tmp 8], argTypes := #[23, 23] }, type := 23, pos := "field.go:73", after := #[{ on := 0, ground := Ground.data }, { on := 1, ground := Ground.data }, { on := 1, ground := Ground.chain }], guard := none }) rfl (by rfl) (exec_callL 27 [.tmp 7, .tmp 8] #[23, 23] rfl [vN c, vN e] rfl (CF16 _)) ((HP.out W2).mono ?_)
        rintro eW3 W3 ⟨rfl, hbW3⟩
        refine ⟨_, rfl, fun _ => hbW3.mono HLW2.out, ?_⟩
        have HBW3 : Hid (Below w.heap.size w W3) := Lib.hid (HBW2.out.trans (hbW3.mono HBW2.out.size))
        have HLW3 : Hid (x2.heap.size ≤ W3.heap.size) := Lib.hid (Nat.le_trans HLW2.out hbW3.size)
        have R0D1_W3 := Lib.hid (R0D1_W2.out.keep hbW3)
        have Z0D1_W3 := Lib.hid (Z0D1_W2.out.keep hbW3)
        clear hbW3 HBW2 HLW2 R0D1_W2 Z0D1_W2
        simp only [Act.put, List.setIfInBounds_toArray, List.set_cons_zero, List.set_cons_succ]
        refine opW _ _ (i := 3) (oi := { dst := some 4, op := Op.alloc 23, type := 0, pos := "field.go:73", after := #[], guard := none }) rfl (by kernel_rfl) (by rfl) (exec_alloc 23 rfl (.agg (zbs 32)) zero23 W3) (fun _ => (below_alloc W3 _).mono HLW3.out) ?_
        obtain ⟨W4, hW4, hbW4, hzW4⟩ := alloc_zero W3
        rw [← hW4]
        obtain ⟨gW4, hgW4⟩ : ∃ g, g = W3.heap.size := ⟨_, rfl⟩
        rw [← hgW4] at hzW4 ⊢
        have HGgW4 : Hid (x2.heap.size ≤ gW4) := Lib.hid (by rw [hgW4]; exact HLW3.out)
        have HBW4 : Hid (Below w.heap.size w W4) := Lib.hid (HBW3.out.trans (hbW4.mono HBW3.out.size))
        have HLW4 : Hid (x2.heap.size ≤ W4.heap.size) := Lib.hid (Nat.le_trans HLW3.out hbW4.size)
        have R0D1_W4 := Lib.hid (R0D1_W3.out.keep hbW4)
        have Z0D1_W4 := Lib.hid (Z0D1_W3.out.keep hbW4)
        have ZAgW4_W4 := Lib.hid hzW4
        clear hbW4 HBW3 HLW3 R0D1_W3 Z0D1_W3 hzW4 hgW4 hW4
        simp only [Act.put, List.setIfInBounds_toArray, List.set_cons_zero, List.set_cons_succ]
        refine storeW_all (i := 4) (oi := { dst := none, op := Op.store 23 (Operand.tmp 4) (Operand.tmp 9), type := 0, pos := "field.go:73", after := #[{ on := 3, ground := Ground.data }, { on := 2, ground := Ground.data }, { on := 2, ground := Ground.chain }, { on := 0, ground := Ground.phase }, { on := 1, ground := Ground.phase }, { on := 2, ground := Ground.phase }, { on := 3, ground := Ground.phase }], guard := none }) rfl (by kernel_rfl) (by rfl) 23 (.tmp 4) (.tmp 9) rfl (gW4) rfl (bcs (enc r)).toArray rfl 23 _ ZAgW4_W4.out (by rw [List.size_toArray, bcs_enc_len]; exact size23) (by rw [List.size_toArray, bcs_enc_len]; rfl) (bcs_one _) rfl ?_
        intro W5 hhW5 hgW5 hzW5
        simp only [Act.put, List.setIfInBounds_toArray, List.set_cons_zero, List.set_cons_succ]
        have R0D1_W5 := Lib.hid (R0D1_W4.out.grown hgW5 (by have := HGgW4.out; have := HLTwheapsize.out; simp; omega))
        have Z0D1_W5 := Lib.hid (Z0D1_W4.out.grown hgW5 (by have := HGgW4.out; have := HLTwheapsizep1.out; simp; omega))
        have SgW4_W5 : Hid (NAt W5 (gW4) r) := Lib.hid ⟨23, hhW5⟩
        have HBW5 : Hid (Below w.heap.size w W5) := Lib.hid (HBW4.out.grown hgW5 HBW4.out.size (fun r hr => by injection hr with hr; have := HGgW4.out; have := HB.out.size; omega))
        have HLW5 : Hid (x2.heap.size ≤ W5.heap.size) := Lib.hid (Nat.le_trans HLW4.out hgW5.size)
        clear hhW5 hgW5 hzW5 HBW4 HLW4 R0D1_W4 Z0D1_W4 ZAgW4_W4
        refine doneW (by kernel_rfl) ⟨rfl, ?_⟩ _
        exact ⟨gW4, R0D1_W5.out, Z0D1_W5.out, SgW4_W5.out, HGgW4.out, HBW5.out, rfl⟩
      · refine wpOp_value (i := 3) (oi := { dst := some 4, op := Op.alloc 23, type := 0, pos := "field.go:73", after := #[], guard := none }) rfl (by rfl) (exec_alloc 23 rfl (.agg (zbs 32)) zero23 W2) ⟨fun _ => (below_alloc W2 _).mono HLW2.out, ?_⟩
        obtain ⟨W6, hW6, hbW6, hzW6⟩ := alloc_zero W2
        rw [← hW6]
        obtain ⟨gW6, hgW6⟩ : ∃ g, g = W2.heap.size := ⟨_, rfl⟩
        rw [← hgW6] at hzW6 ⊢
        have HGgW6 : Hid (x2.heap.size ≤ gW6) := Lib.hid (by rw [hgW6]; exact HLW2.out)
        have HBW6 : Hid (Below w.heap.size w W6) := Lib.hid (HBW2.out.trans (hbW6.mono HBW2.out.size))
        have HLW6 : Hid (x2.heap.size ≤ W6.heap.size) := Lib.hid (Nat.le_trans HLW2.out hbW6.size)
        have R0D1_W6 := Lib.hid (R0D1_W2.out.keep hbW6)
        have Z0D1_W6 := Lib.hid (Z0D1_W2.out.keep hbW6)
        have ZAgW6_W6 := Lib.hid hzW6
        clear hbW6 HBW2 HLW2 R0D1_W2 Z0D1_W2 hzW6 hgW6 hW6
        simp only [Act.put, List.setIfInBounds_toArray, List.set_cons_zero, List.set_cons_succ]
        refine callW (i := 2) (oi := { dst := some 9, op := Op.call { callee := Callee.value (Operand.func 27), args := #[Operand.tmp 7, Operand.tmp 8], argTypes := #[23, 23] }, type := 23, pos := "field.go:73", after := #[{ on := 0, ground := Ground.data }, { on := 1, ground := Ground.data }, { on := 1, ground := Ground.chain }], guard := none }) rfl (by kernel_rfl) (by rfl) (exec_callL 27 [.tmp 7, .tmp 8] #[23, 23] rfl [vN c, vN e] rfl (CF16 _)) ((HP.out W6).mono ?_)
        rintro eW7 W7 ⟨rfl, hbW7⟩
        refine ⟨_, rfl, fun _ => hbW7.mono HLW6.out, ?_⟩
        have HBW7 : Hid (Below w.heap.size w W7) := Lib.hid (HBW6.out.trans (hbW7.mono HBW6.out.size))
        have HLW7 : Hid (x2.heap.size ≤ W7.heap.size) := Lib.hid (Nat.le_trans HLW6.out hbW7.size)
        have R0D1_W7 := Lib.hid (R0D1_W6.out.keep hbW7)
        have Z0D1_W7 := Lib.hid (Z0D1_W6.out.keep hbW7)
        have ZAgW6_W7 := Lib.hid (ZAgW6_W6.out.keep hbW7)
        clear hbW7 HBW6 HLW6 R0D1_W6 Z0D1_W6 ZAgW6_W6
        simp only [Act.put, List.setIfInBounds_toArray, List.set_cons_zero, List.set_cons_succ]
        refine storeW_all (i := 4) (oi := { dst := none, op := Op.store 23 (Operand.tmp 4) (Operand.tmp 9), type := 0, pos := "field.go:73", after := #[{ on := 3, ground := Ground.data }, { on := 2, ground := Ground.data }, { on := 2, ground := Ground.chain }, { on := 0, ground := Ground.phase }, { on := 1, ground := Ground.phase }, { on := 2, ground := Ground.phase }, { on := 3, ground := Ground.phase }], guard := none }) rfl (by kernel_rfl) (by rfl) 23 (.tmp 4) (.tmp 9) rfl (gW6) rfl (bcs (enc r)).toArray rfl 23 _ ZAgW6_W7.out (by rw [List.size_toArray, bcs_enc_len]; exact size23) (by rw [List.size_toArray, bcs_enc_len]; rfl) (bcs_one _) rfl ?_
        intro W8 hhW8 hgW8 hzW8
        simp only [Act.put, List.setIfInBounds_toArray, List.set_cons_zero, List.set_cons_succ]
        have R0D1_W8 := Lib.hid (R0D1_W7.out.grown hgW8 (by have := HGgW6.out; have := HLTwheapsize.out; simp; omega))
        have Z0D1_W8 := Lib.hid (Z0D1_W7.out.grown hgW8 (by have := HGgW6.out; have := HLTwheapsizep1.out; simp; omega))
        have SgW6_W8 : Hid (NAt W8 (gW6) r) := Lib.hid ⟨23, hhW8⟩
        have HBW8 : Hid (Below w.heap.size w W8) := Lib.hid (HBW7.out.grown hgW8 HBW7.out.size (fun r hr => by injection hr with hr; have := HGgW6.out; have := HB.out.size; omega))
        have HLW8 : Hid (x2.heap.size ≤ W8.heap.size) := Lib.hid (Nat.le_trans HLW7.out hgW8.size)
        clear hhW8 hgW8 hzW8 HBW7 HLW7 R0D1_W7 Z0D1_W7 ZAgW6_W7
        refine doneW (by kernel_rfl) ⟨rfl, ?_⟩ _
        exact ⟨gW6, R0D1_W8.out, Z0D1_W8.out, SgW6_W8.out, HGgW6.out, HBW8.out, rfl⟩
    · refine wpOp_value (i := 3) (oi := { dst := some 4, op := Op.alloc 23, type := 0, pos := "field.go:73", after := #[], guard := none }) rfl (by rfl) (exec_alloc 23 rfl (.agg (zbs 32)) zero23 D1) ⟨fun _ => (below_alloc D1 _).mono HLD1.out, ?_⟩
      obtain ⟨W9, hW9, hbW9, hzW9⟩ := alloc_zero D1
      rw [← hW9]
      obtain ⟨gW9, hgW9⟩ : ∃ g, g = D1.heap.size := ⟨_, rfl⟩
      rw [← hgW9] at hzW9 ⊢
      have HGgW9 : Hid (x2.heap.size ≤ gW9) := Lib.hid (by rw [hgW9]; exact HLD1.out)
      have HBW9 : Hid (Below w.heap.size w W9) := Lib.hid (HBD1.out.trans (hbW9.mono HBD1.out.size))
      have HLW9 : Hid (x2.heap.size ≤ W9.heap.size) := Lib.hid (Nat.le_trans HLD1.out hbW9.size)
      have R0D1_W9 := Lib.hid (R0D1.out.keep hbW9)
      have Z0D1_W9 := Lib.hid (Z0D1.out.keep hbW9)
      have ZAgW9_W9 := Lib.hid hzW9
      clear hbW9 HBD1 HLD1 R0D1 Z0D1 hzW9 hgW9 hW9
      simp only [Act.put, List.setIfInBounds_toArray, List.set_cons_zero, List.set_cons_succ]
      refine callW (i := 1) (oi := { dst := some 8, op := Op.call { callee := Callee.value (Operand.func 61), args := #[Operand.const (Value.int IntKind.u8 254), Operand.const (Value.int IntKind.u8 15)], argTypes := #[5, 5] }, type := 23, pos := "field.go:73", after := #[], guard := none }) rfl (by kernel_rfl) (by rfl) (exec_callL 61 [.const (.int .u8 254), .const (.int .u8 15)] #[5, 5] rfl [.int .u8 254, .int .u8 15] rfl (CF34 _)) ((HO.out W9).mono ?_)
      rintro eW10 W10 ⟨rfl, hbW10⟩
      refine ⟨_, rfl, fun _ => hbW10.mono HLW9.out, ?_⟩
      have HBW10 : Hid (Below w.heap.size w W10) := Lib.hid (HBW9.out.trans (hbW10.mono HBW9.out.size))
      have HLW10 : Hid (x2.heap.size ≤ W10.heap.size) := Lib.hid (Nat.le_trans HLW9.out hbW10.size)
      have R0D1_W10 := Lib.hid (R0D1_W9.out.keep hbW10)
      have Z0D1_W10 := Lib.hid (Z0D1_W9.out.keep hbW10)
      have ZAgW9_W10 := Lib.hid (ZAgW9_W9.out.keep hbW10)
      clear hbW10 HBW9 HLW9 R0D1_W9 Z0D1_W9 ZAgW9_W9
      simp only [Act.put, List.setIfInBounds_toArray, List.set_cons_zero, List.set_cons_succ]
      refine callW (i := 2) (oi := { dst := some 9, op := Op.call { callee := Callee.value (Operand.func 27), args := #[Operand.tmp 7, Operand.tmp 8], argTypes := #[23, 23] }, type := 23, pos := "field.go:73", after := #[{ on := 0, ground := Ground.data }, { on := 1, ground := Ground.data }, { on := 1, ground := Ground.chain }], guard := none }) rfl (by kernel_rfl) (by rfl) (exec_callL 27 [.tmp 7, .tmp 8] #[23, 23] rfl [vN c, vN e] rfl (CF16 _)) ((HP.out W10).mono ?_)
      rintro eW11 W11 ⟨rfl, hbW11⟩
      refine ⟨_, rfl, fun _ => hbW11.mono HLW10.out, ?_⟩
      have HBW11 : Hid (Below w.heap.size w W11) := Lib.hid (HBW10.out.trans (hbW11.mono HBW10.out.size))
      have HLW11 : Hid (x2.heap.size ≤ W11.heap.size) := Lib.hid (Nat.le_trans HLW10.out hbW11.size)
      have R0D1_W11 := Lib.hid (R0D1_W10.out.keep hbW11)
      have Z0D1_W11 := Lib.hid (Z0D1_W10.out.keep hbW11)
      have ZAgW9_W11 := Lib.hid (ZAgW9_W10.out.keep hbW11)
      clear hbW11 HBW10 HLW10 R0D1_W10 Z0D1_W10 ZAgW9_W10
      simp only [Act.put, List.setIfInBounds_toArray, List.set_cons_zero, List.set_cons_succ]
      refine storeW_all (i := 4) (oi := { dst := none, op := Op.store 23 (Operand.tmp 4) (Operand.tmp 9), type := 0, pos := "field.go:73", after := #[{ on := 3, ground := Ground.data }, { on := 2, ground := Ground.data }, { on := 2, ground := Ground.chain }, { on := 0, ground := Ground.phase }, { on := 1, ground := Ground.phase }, { on := 2, ground := Ground.phase }, { on := 3, ground := Ground.phase }], guard := none }) rfl (by kernel_rfl) (by rfl) 23 (.tmp 4) (.tmp 9) rfl (gW9) rfl (bcs (enc r)).toArray rfl 23 _ ZAgW9_W11.out (by rw [List.size_toArray, bcs_enc_len]; exact size23) (by rw [List.size_toArray, bcs_enc_len]; rfl) (bcs_one _) rfl ?_
      intro W12 hhW12 hgW12 hzW12
      simp only [Act.put, List.setIfInBounds_toArray, List.set_cons_zero, List.set_cons_succ]
      have R0D1_W12 := Lib.hid (R0D1_W11.out.grown hgW12 (by have := HGgW9.out; have := HLTwheapsize.out; simp; omega))
      have Z0D1_W12 := Lib.hid (Z0D1_W11.out.grown hgW12 (by have := HGgW9.out; have := HLTwheapsizep1.out; simp; omega))
      have SgW9_W12 : Hid (NAt W12 (gW9) r) := Lib.hid ⟨23, hhW12⟩
      have HBW12 : Hid (Below w.heap.size w W12) := Lib.hid (HBW11.out.grown hgW12 HBW11.out.size (fun r hr => by injection hr with hr; have := HGgW9.out; have := HB.out.size; omega))
      have HLW12 : Hid (x2.heap.size ≤ W12.heap.size) := Lib.hid (Nat.le_trans HLW11.out hgW12.size)
      clear hhW12 hgW12 hzW12 HBW11 HLW11 R0D1_W11 Z0D1_W11 ZAgW9_W11
      refine doneW (by kernel_rfl) ⟨rfl, ?_⟩ _
      exact ⟨gW9, R0D1_W12.out, Z0D1_W12.out, SgW9_W12.out, HGgW9.out, HBW12.out, rfl⟩
  rintro a' x3 ⟨g, h1, h2, h3, h4, h5, rfl⟩
  have R3 := Lib.hid h1
  have Z3 := Lib.hid h2
  have T3 := Lib.hid h3
  have HGN : Hid (w.heap.size + 1 < g) := by have := HLTwheapsizep1.out; exact Lib.hid (by omega)
  have HB3 := Lib.hid h5
  clear h1 h2 h3 h4 h5 R Z HB HLTwheapsize HLTwheapsizep1 HO HP
  go_wp2_with (first | ((with_reducible show wpList _ _ _ (⟨_, .load 23 (.tmp 4), _, _, _, _⟩ :: _) _ _); go_must (refine wpList_exec rfl (vN r) (exec_load23 (.tmp 4) rfl (g) r rfl T3.out) ?_)))
  refine (HM.out _).mono ?_
  rintro ex x4 ⟨rfl, hb⟩
  have R4 := Lib.hid (R3.out.keep hb)
  have Z4 := Lib.hid (Z3.out.keep hb)
  have T4 := Lib.hid (T3.out.keep hb)
  have HB4 := Lib.hid (HB3.out.trans (hb.mono HB3.out.size))
  clear hb R3 Z3 T3 HB3 HM
  cases b1
  · cases b2
    · have hx : (x, ok) = (0, false) := HX.out
      obtain ⟨rfl, rfl⟩ := Prod.mk.inj hx
      clear hx HX
      go_wp2_with (first | ((with_reducible show wpList _ _ _ (⟨_, .load 23 (.tmp 1), _, _, _, _⟩ :: _) _ _); go_must (refine wpList_exec rfl (vN c) (exec_load23 (.tmp 1) rfl (w.heap.size) c rfl R4.out) ?_)) | ((with_reducible show wpList _ _ _ (⟨_, .binOp .eql 23 (.tmp 12) (.tmp 14) 23, _, _, _, _⟩ :: _) _ _); go_must (refine wpList_exec rfl (.bool false) (exec_eq23 (.tmp 12) (.tmp 14) rfl rfl rfl (HE1.out _)) ?_)))
      refine (HN.out _).mono ?_
      rintro ex x5 ⟨rfl, hb⟩
      have Z5 := Lib.hid (Z4.out.keep hb)
      have HB5 := Lib.hid (HB4.out.trans (hb.mono HB4.out.size))
      clear hb R4 Z4 T4 HB4 HN HE1
      go_wp2_with (first | ((with_reducible show wpList _ _ _ (⟨_, .binOp .eql 23 (.tmp 12) (.tmp 20) 23, _, _, _, _⟩ :: _) _ _); go_must (refine wpList_exec rfl (.bool false) (exec_eq23 (.tmp 12) (.tmp 20) rfl rfl rfl (HE2.out _)) ?_)) | ((with_reducible show wpList _ _ _ (⟨_, .build 23 _, _, _, _, _⟩ :: _) _ _); go_must (refine wpList_exec rfl (vN 0) (exec_build0 rfl) ?_)) | ((with_reducible show wpList _ _ _ (⟨none, .store 23 (.tmp 2) (.tmp 26), _, _, _, _⟩ :: _) _ _); go_must (refine wpList_store_all rfl 23 (.tmp 2) (.tmp 26) rfl (w.heap.size + 1) rfl (bcs (enc 0)).toArray rfl 23 _ Z5.out (by rw [List.size_toArray, bcs_enc_len]; exact size23) (by rw [List.size_toArray, bcs_enc_len]; rfl) (bcs_one _) ?_; intro y1 hh hg hz; have HH := Lib.hid hh; have HBel : Hid (Below w.heap.size w y1) := HB5.out.grown hg HB5.out.size (fun r hr => by injection hr with hr; omega); clear hh hg hz)))
      exact bodyPost_ret (results_cell2 rfl _ _ (w.heap.size + 1) 23 (bcs (enc 0)).toArray (0, 0) _ rfl HH.out under23 rfl (by rw [List.size_toArray, bcs_enc_len]; exact size23)) rfl ⟨rfl, HBel.out⟩
    · have hx : (x, ok) = (v2, true) := HX.out
      obtain ⟨rfl, rfl⟩ := Prod.mk.inj hx
      clear hx HX
      go_wp2_with (first | ((with_reducible show wpList _ _ _ (⟨_, .load 23 (.tmp 1), _, _, _, _⟩ :: _) _ _); go_must (refine wpList_exec rfl (vN c) (exec_load23 (.tmp 1) rfl (w.heap.size) c rfl R4.out) ?_)) | ((with_reducible show wpList _ _ _ (⟨_, .binOp .eql 23 (.tmp 12) (.tmp 14) 23, _, _, _, _⟩ :: _) _ _); go_must (refine wpList_exec rfl (.bool false) (exec_eq23 (.tmp 12) (.tmp 14) rfl rfl rfl (HE1.out _)) ?_)))
      refine (HN.out _).mono ?_
      rintro ex x5 ⟨rfl, hb⟩
      have R5 := Lib.hid (R4.out.keep hb)
      have Z5 := Lib.hid (Z4.out.keep hb)
      have T5 := Lib.hid (T4.out.keep hb)
      have HB5 := Lib.hid (HB4.out.trans (hb.mono HB4.out.size))
      clear hb R4 Z4 T4 HB4 HN HE1
      go_wp2_with (first | ((with_reducible show wpList _ _ _ (⟨_, .binOp .eql 23 (.tmp 12) (.tmp 20) 23, _, _, _, _⟩ :: _) _ _); go_must (refine wpList_exec rfl (.bool true) (exec_eq23 (.tmp 12) (.tmp 20) rfl rfl rfl (HE2.out _)) ?_)))
      have HLTwheapsize : Hid (w.heap.size < x5.heap.size) := R5.out.lt
      have HLTwheapsizep1 : Hid (w.heap.size + 1 < x5.heap.size) := Z5.out.lt
      have HLTg : Hid (g < x5.heap.size) := T5.out.lt
      refine region_split (fun a' W => NAt W (w.heap.size + 1) x ∧ Below w.heap.size w W ∧ a' = ⟨#[vN a, .pointer (some ⟨w.heap.size, 0, none⟩), .pointer (some ⟨w.heap.size + 1, 0, none⟩), .bool true, .pointer (some ⟨g, 0, none⟩), vN a, vN c, vN c, vN e, vN r, vN r, vN r, vN m, .bool false, vN c, .bool false, undef, undef, .bool true, vN c, vN n, .bool true, vN r, vN i, vN u, vN x, undef], []⟩) ?_ ?_
      · refine startW (fun j => j == 4) (x5.heap.size) (by kernel_rfl) ?_
        obtain ⟨D13, hD13⟩ : ∃ D, D = x5.drew := ⟨_, rfl⟩
        rw [← hD13]
        have HLD13 : Hid (x5.heap.size ≤ D13.heap.size) := Lib.hid (by rw [hD13]; exact Nat.le_refl _)
        have HBD13 : Hid (Below w.heap.size w D13) := Lib.hid (by rw [hD13]; exact below_drewN' HB5.out 1)
        have R0D13 : Hid (NAt D13 (w.heap.size) c) := Lib.hid (by rw [hD13]; exact R5.out)
        have R1D13 : Hid (NAt D13 (g) r) := Lib.hid (by rw [hD13]; exact T5.out)
        have Z0D13 : Hid (ZAt D13 (w.heap.size + 1)) := Lib.hid (by rw [hD13]; exact Z5.out)
        clear hD13
        refine takeT (i := 0) (oi := { dst := some 22, op := Op.load 23 (Operand.tmp 4), type := 23, pos := "field.go:78", after := #[], guard := none }) (vN r) rfl (by kernel_rfl) (by kernel_rfl) (by kernel_rfl) (by kernel_rfl) (by kernel_rfl) (fun _ _ _ h => nomatch h.1) (by rfl) (fun w' hk => exec_load23 (.tmp 4) rfl (g) r rfl (R1D13.out.below hk HLTg.out)) ?_
        simp only [Act.put, List.setIfInBounds_toArray, List.set_cons_zero, List.set_cons_succ]
        refine callW (i := 1) (oi := { dst := some 23, op := Op.call { callee := Callee.value (Operand.func 63), args := #[], argTypes := #[] }, type := 23, pos := "field.go:78", after := #[], guard := none }) rfl (by kernel_rfl) (by rfl) (exec_callL 63 [] #[] rfl [] rfl (CF36 _)) ((H36.out D13).mono ?_)
        rintro eW14 W14 ⟨rfl, hbW14⟩
        refine ⟨_, rfl, fun _ => hbW14.mono HLD13.out, ?_⟩
        have HBW14 : Hid (Below w.heap.size w W14) := Lib.hid (HBD13.out.trans (hbW14.mono HBD13.out.size))
        have HLW14 : Hid (x5.heap.size ≤ W14.heap.size) := Lib.hid (Nat.le_trans HLD13.out hbW14.size)
        have R0D13_W14 := Lib.hid (R0D13.out.keep hbW14)
        have R1D13_W14 := Lib.hid (R1D13.out.keep hbW14)
        have Z0D13_W14 := Lib.hid (Z0D13.out.keep hbW14)
        clear hbW14 HBD13 HLD13 R0D13 R1D13 Z0D13
        simp only [Act.put, List.setIfInBounds_toArray, List.set_cons_zero, List.set_cons_succ]
        refine callW (i := 2) (oi := { dst := some 24, op := Op.call { callee := Callee.value (Operand.func 25), args := #[Operand.tmp 22, Operand.tmp 23], argTypes := #[23, 23] }, type := 23, pos := "field.go:78", after := #[{ on := 0, ground := Ground.data }, { on := 1, ground := Ground.data }, { on := 1, ground := Ground.chain }], guard := none }) rfl (by kernel_rfl) (by rfl) (exec_callL 25 [.tmp 22, .tmp 23] #[23, 23] rfl [vN r, vN i] rfl (CF28 _)) ((HM2.out W14).mono ?_)
        rintro eW15 W15 ⟨rfl, hbW15⟩
        refine ⟨_, rfl, fun _ => hbW15.mono HLW14.out, ?_⟩
        have HBW15 : Hid (Below w.heap.size w W15) := Lib.hid (HBW14.out.trans (hbW15.mono HBW14.out.size))
        have HLW15 : Hid (x5.heap.size ≤ W15.heap.size) := Lib.hid (Nat.le_trans HLW14.out hbW15.size)
        have R0D13_W15 := Lib.hid (R0D13_W14.out.keep hbW15)
        have R1D13_W15 := Lib.hid (R1D13_W14.out.keep hbW15)
        have Z0D13_W15 := Lib.hid (Z0D13_W14.out.keep hbW15)
        clear hbW15 HBW14 HLW14 R0D13_W14 R1D13_W14 Z0D13_W14
        simp only [Act.put, List.setIfInBounds_toArray, List.set_cons_zero, List.set_cons_succ]
        refine callW (i := 3) (oi := { dst := some 25, op := Op.call { callee := Callee.value (Operand.func 62), args := #[Operand.tmp 24], argTypes := #[23] }, type := 23, pos := "field.go:78", after := #[{ on := 2, ground := Ground.data }, { on := 2, ground := Ground.chain }], guard := none }) rfl (by kernel_rfl) (by rfl) (exec_callL 62 [.tmp 24] #[23] rfl [vN u] rfl (CF35 _)) ((HEv2.out W15).mono ?_)
        rintro eW16 W16 ⟨rfl, hbW16⟩
        refine ⟨_, rfl, fun _ => hbW16.mono HLW15.out, ?_⟩
        have HBW16 : Hid (Below w.heap.size w W16) := Lib.hid (HBW15.out.trans (hbW16.mono HBW15.out.size))
        have HLW16 : Hid (x5.heap.size ≤ W16.heap.size) := Lib.hid (Nat.le_trans HLW15.out hbW16.size)
        have R0D13_W16 := Lib.hid (R0D13_W15.out.keep hbW16)
        have R1D13_W16 := Lib.hid (R1D13_W15.out.keep hbW16)
        have Z0D13_W16 := Lib.hid (Z0D13_W15.out.keep hbW16)
        clear hbW16 HBW15 HLW15 R0D13_W15 R1D13_W15 Z0D13_W15
        simp only [Act.put, List.setIfInBounds_toArray, List.set_cons_zero, List.set_cons_succ]
        refine storeW_all (i := 4) (oi := { dst := none, op := Op.store 23 (Operand.tmp 2) (Operand.tmp 25), type := 0, pos := "field.go:78", after := #[{ on := 3, ground := Ground.data }, { on := 3, ground := Ground.chain }, { on := 0, ground := Ground.phase }, { on := 1, ground := Ground.phase }, { on := 2, ground := Ground.phase }, { on := 3, ground := Ground.phase }], guard := none }) rfl (by kernel_rfl) (by rfl) 23 (.tmp 2) (.tmp 25) rfl (w.heap.size + 1) rfl (bcs (enc x)).toArray rfl 23 _ Z0D13_W16.out (by rw [List.size_toArray, bcs_enc_len]; exact size23) (by rw [List.size_toArray, bcs_enc_len]; rfl) (bcs_one _) rfl ?_
        intro W17 hhW17 hgW17 hzW17
        simp only [Act.put, List.setIfInBounds_toArray, List.set_cons_zero, List.set_cons_succ]
        have R0D13_W17 := Lib.hid (R0D13_W16.out.grown hgW17 (by simp))
        have R1D13_W17 := Lib.hid (R1D13_W16.out.grown hgW17 (by have := HGN.out; simp; omega))
        have Swheapsizep1_W17 : Hid (NAt W17 (w.heap.size + 1) x) := Lib.hid ⟨23, hhW17⟩
        have HBW17 : Hid (Below w.heap.size w W17) := Lib.hid (HBW16.out.grown hgW17 HBW16.out.size (fun r hr => by injection hr with hr; omega))
        have HLW17 : Hid (x5.heap.size ≤ W17.heap.size) := Lib.hid (Nat.le_trans HLW16.out hgW17.size)
        clear hhW17 hgW17 hzW17 HBW16 HLW16 R0D13_W16 R1D13_W16 Z0D13_W16
        refine takeAE (i := 5) (oi := { dst := some 3, op := Op.assign (Operand.const (Value.bool true)), type := 4, pos := "field.go:78", after := #[{ on := 4, ground := Ground.chain }, { on := 0, ground := Ground.phase }, { on := 1, ground := Ground.phase }, { on := 2, ground := Ground.phase }, { on := 3, ground := Ground.phase }, { on := 4, ground := Ground.phase }], guard := none }) rfl (by kernel_rfl) (by kernel_rfl) (by kernel_rfl) (fun _ _ _ _ h => nomatch h.1) (by rfl) ?_
        refine ⟨.bool true, fun w' => exec_moveA (.const (.bool true)) rfl _ rfl, ?_⟩
        simp only [Act.put, List.setIfInBounds_toArray, List.set_cons_zero, List.set_cons_succ]
        refine doneW (by kernel_rfl) ⟨rfl, ?_⟩ _
        exact ⟨Swheapsizep1_W17.out, HBW17.out, rfl⟩
      rintro a' x6 ⟨⟨t, ht⟩, hb, rfl⟩
      have HH := Lib.hid ht
      have HBel := Lib.hid hb
      clear ht hb R5 Z5 T5 HB5 HLTwheapsize HLTwheapsizep1 HLTg
      go_wp2
      exact bodyPost_ret (results_cell2 rfl _ _ (w.heap.size + 1) t (bcs (enc x)).toArray (0, 0) _ rfl HH.out under23 rfl (by rw [List.size_toArray, bcs_enc_len]; exact size23)) rfl ⟨rfl, HBel.out⟩
  · have hx : (x, ok) = (v1, true) := HX.out
    obtain ⟨rfl, rfl⟩ := Prod.mk.inj hx
    clear hx HX
    go_wp2_with (first | ((with_reducible show wpList _ _ _ (⟨_, .load 23 (.tmp 1), _, _, _, _⟩ :: _) _ _); go_must (refine wpList_exec rfl (vN c) (exec_load23 (.tmp 1) rfl (w.heap.size) c rfl R4.out) ?_)) | ((with_reducible show wpList _ _ _ (⟨_, .binOp .eql 23 (.tmp 12) (.tmp 14) 23, _, _, _, _⟩ :: _) _ _); go_must (refine wpList_exec rfl (.bool true) (exec_eq23 (.tmp 12) (.tmp 14) rfl rfl rfl (HE1.out _)) ?_)) | ((with_reducible show wpList _ _ _ (⟨_, .load 23 (.tmp 4), _, _, _, _⟩ :: _) _ _); go_must (refine wpList_exec rfl (vN r) (exec_load23 (.tmp 4) rfl (g) r rfl T4.out) ?_)))
    refine (HEv.out _).mono ?_
    rintro ex x5 ⟨rfl, hb⟩
    have Z5 := Lib.hid (Z4.out.keep hb)
    have HB5 := Lib.hid (HB4.out.trans (hb.mono HB4.out.size))
    clear hb R4 Z4 T4 HB4 HEv
    go_wp2_with ((with_reducible show wpList _ _ _ (⟨none, .store 23 (.tmp 2) (.tmp 17), _, _, _, _⟩ :: _) _ _); go_must (refine wpList_store_all rfl 23 (.tmp 2) (.tmp 17) rfl (w.heap.size + 1) rfl (bcs (enc x)).toArray rfl 23 _ Z5.out (by rw [List.size_toArray, bcs_enc_len]; exact size23) (by rw [List.size_toArray, bcs_enc_len]; rfl) (bcs_one _) ?_; intro y1 hh hg hz; have HH := Lib.hid hh; have HBel : Hid (Below w.heap.size w y1) := HB5.out.grown hg HB5.out.size (fun r hr => by injection hr with hr; omega); clear hh hg hz))
    exact bodyPost_ret (results_cell2 rfl _ _ (w.heap.size + 1) 23 (bcs (enc x)).toArray (0, 0) _ rfl HH.out under23 rfl (by rw [List.size_toArray, bcs_enc_len]; exact size23)) rfl ⟨rfl, HBel.out⟩
end Go.Proofs.Ytgdimnbdnepbgaa
/- Numbers: primes, Fermat's little theorem, Pocklington's test, and that 2^255 - 19 is a prime. No statement is proved here. -/
namespace Go.Proofs.Ytgdimnbdnepbgaa
set_option linter.unusedVariables false

/-- A prime. -/
def Pr (n : Nat) : Prop := 2 ≤ n ∧ ∀ m, m ∣ n → m = 1 ∨ m = n

theorem factor : ∀ n : Nat, 2 ≤ n → ∃ r, Pr r ∧ r ∣ n := by
  intro n
  induction n using Nat.strongRecOn with
  | ind n ih =>
    intro h
    by_cases hp : ∀ m, m ∣ n → m = 1 ∨ m = n
    · exact ⟨n, ⟨h, hp⟩, Nat.dvd_refl n⟩
    · obtain ⟨m, hm⟩ := Classical.not_forall.1 hp
      have h1 : m ∣ n := Classical.byContradiction fun hc => hm fun hd => absurd hd hc
      have h2 : ¬ (m = 1 ∨ m = n) := fun hc => hm fun _ => hc
      have h3 : m ≤ n := Nat.le_of_dvd (by omega) h1
      have h4 : m ≠ 0 := fun h0 => by subst h0; have := Nat.eq_zero_of_zero_dvd h1; omega
      obtain ⟨r, hr, hd⟩ := ih m (by omega) (by omega)
      exact ⟨r, hr, Nat.dvd_trans hd h1⟩
theorem small_factor (n : Nat) (h : 2 ≤ n) (hn : ¬ Pr n) : ∃ r, Pr r ∧ r ∣ n ∧ r * r ≤ n := by
  have hp : ¬ ∀ m, m ∣ n → m = 1 ∨ m = n := fun hc => hn ⟨h, hc⟩
  obtain ⟨m, hm⟩ := Classical.not_forall.1 hp
  have h1 : m ∣ n := Classical.byContradiction fun hc => hm fun hd => absurd hd hc
  have h2 : ¬ (m = 1 ∨ m = n) := fun hc => hm fun _ => hc
  obtain ⟨k, hk⟩ := h1
  have hm0 : m ≠ 0 := fun h0 => by subst h0; omega
  have hk0 : k ≠ 0 := fun h0 => by subst h0; omega
  have hk1 : k ≠ 1 := fun h0 => by subst h0; omega
  rcases Nat.le_total m k with hmk | hmk
  · obtain ⟨r, hr, hd⟩ := factor m (by omega)
    have hle : r ≤ m := Nat.le_of_dvd (by omega) hd
    exact ⟨r, hr, Nat.dvd_trans hd ⟨k, hk⟩, by rw [hk]; exact Nat.mul_le_mul hle (Nat.le_trans hle hmk)⟩
  · obtain ⟨r, hr, hd⟩ := factor k (by omega)
    have hle : r ≤ k := Nat.le_of_dvd (by omega) hd
    exact ⟨r, hr, Nat.dvd_trans hd ⟨m, by rw [hk, Nat.mul_comm]⟩, by rw [hk]; exact Nat.mul_le_mul (Nat.le_trans hle hmk) hle⟩
theorem Pr.coprime {p a : Nat} (hp : Pr p) (h : ¬ p ∣ a) : Nat.Coprime p a := by
  rcases hp.2 (Nat.gcd p a) (Nat.gcd_dvd_left p a) with h1 | h1
  · exact h1
  · exact absurd (h1 ▸ Nat.gcd_dvd_right p a) h
theorem Pr.euclid {p a b : Nat} (hp : Pr p) (h : p ∣ a * b) : p ∣ a ∨ p ∣ b := by
  by_cases ha : p ∣ a
  · exact .inl ha
  · exact .inr (Nat.Coprime.dvd_of_dvd_mul_left (hp.coprime ha) h)

/-- Binomials. -/
def ch : Nat → Nat → Nat
  | _, 0 => 1
  | 0, _ + 1 => 0
  | n + 1, k + 1 => ch n k + ch n (k + 1)
theorem ch_zero (n : Nat) : ch n 0 = 1 := by cases n <;> rfl
theorem ch_big : ∀ n k : Nat, n < k → ch n k = 0
  | 0, k + 1, _ => rfl
  | n + 1, k + 1, h => by
    show ch n k + ch n (k + 1) = 0
    rw [ch_big n k (by omega), ch_big n (k + 1) (by omega)]
theorem ch_self : ∀ n : Nat, ch n n = 1
  | 0 => rfl
  | n + 1 => by
    show ch n n + ch n (n + 1) = 1
    rw [ch_self n, ch_big n (n + 1) (by omega)]
theorem ch_mul : ∀ n k : Nat, (k + 1) * ch (n + 1) (k + 1) = (n + 1) * ch n k
  | 0, 0 => rfl
  | 0, k + 1 => by
    show (k + 2) * (ch 0 (k + 1) + ch 0 (k + 2)) = 1 * ch 0 (k + 1)
    simp [ch]
  | n + 1, 0 => by
    have h := ch_mul n 0
    have h1 : ch (n + 2) 1 = ch (n + 1) 0 + ch (n + 1) 1 := rfl
    rw [ch_zero] at h h1 ⊢
    have h' : ch (n + 1) 1 = n + 1 := by simpa using h
    rw [h1, h']
    omega
  | n + 1, k + 1 => by
    have a := ch_mul n k
    have b := ch_mul n (k + 1)
    have h1 : ch (n + 2) (k + 2) = ch (n + 1) (k + 1) + ch (n + 1) (k + 2) := rfl
    have h2 : ch (n + 1) (k + 1) = ch n k + ch n (k + 1) := rfl
    have c : (k + 1 + 1) * ch (n + 1) (k + 1) = (k + 1) * ch (n + 1) (k + 1) + ch (n + 1) (k + 1) := Nat.succ_mul _ _
    have d : (n + 1 + 1) * ch (n + 1) (k + 1) = (n + 1) * ch (n + 1) (k + 1) + ch (n + 1) (k + 1) := Nat.succ_mul _ _
    have e : (n + 1) * ch (n + 1) (k + 1) = (n + 1) * ch n k + (n + 1) * ch n (k + 1) := by rw [h2, Nat.mul_add]
    rw [h1, Nat.mul_add, c, d, a, b, e]
    omega
/-- The first m terms of (a + 1)^n. -/
def sm (a n : Nat) : Nat → Nat
  | 0 => 0
  | m + 1 => sm a n m + ch n m * a ^ m
theorem sm_next (a n : Nat) : ∀ m, sm a (n + 1) (m + 1) = a * sm a n m + sm a n (m + 1)
  | 0 => by simp [sm, ch_zero]
  | m + 1 => by
    have h1 : ch (n + 1) (m + 1) = ch n m + ch n (m + 1) := rfl
    have e1 : sm a (n + 1) (m + 2) = sm a (n + 1) (m + 1) + ch (n + 1) (m + 1) * a ^ (m + 1) := rfl
    have e2 : sm a n (m + 1) = sm a n m + ch n m * a ^ m := rfl
    have e3 : sm a n (m + 2) = sm a n (m + 1) + ch n (m + 1) * a ^ (m + 1) := rfl
    have e4 : a * (ch n m * a ^ m) = ch n m * a ^ (m + 1) := by rw [Nat.pow_succ, Nat.mul_left_comm, Nat.mul_comm a]
    rw [e1, sm_next a n m, h1, Nat.add_mul, e3, e2, Nat.mul_add, e4]
    omega
theorem sm_all (a : Nat) : ∀ n, sm a n (n + 1) = (a + 1) ^ n
  | 0 => by simp [sm, ch]
  | n + 1 => by
    have e : sm a n (n + 2) = sm a n (n + 1) + ch n (n + 1) * a ^ (n + 1) := rfl
    rw [sm_next, e, ch_big n (n + 1) (by omega), sm_all a n, Nat.pow_succ (n := a + 1), Nat.mul_add, Nat.mul_comm a]
    omega
theorem ch_dvd {p k : Nat} (hp : Pr p) (h0 : 0 < k) (h1 : k < p) : p ∣ ch p k := by
  obtain ⟨n, rfl⟩ : ∃ n, p = n + 1 := ⟨p - 1, by have := hp.1; omega⟩
  obtain ⟨j, rfl⟩ : ∃ j, k = j + 1 := ⟨k - 1, by omega⟩
  have h := ch_mul n j
  rcases hp.euclid (a := j + 1) (b := ch (n + 1) (j + 1)) ⟨ch n j, h⟩ with hd | hd
  · have := Nat.le_of_dvd (by omega) hd
    omega
  · exact hd
theorem sm_mod {p : Nat} (hp : Pr p) (a : Nat) : ∀ m, m < p → sm a p (m + 1) % p = 1
  | 0, _ => by
    have h2 := hp.1
    simp only [sm, ch_zero, Nat.pow_zero, Nat.mul_one, Nat.zero_add]
    exact Nat.mod_eq_of_lt h2
  | m + 1, h => by
    have e : sm a p (m + 2) = sm a p (m + 1) + ch p (m + 1) * a ^ (m + 1) := rfl
    obtain ⟨c, hc⟩ := ch_dvd hp (show 0 < m + 1 by omega) h
    rw [e, hc, Nat.mul_assoc, Nat.add_mul_mod_self_left, sm_mod hp a m (by omega)]
theorem fermat {p : Nat} (hp : Pr p) : ∀ a, a ^ p % p = a % p
  | 0 => by rw [Nat.zero_pow (by have := hp.1; omega)]
  | a + 1 => by
    have h2 := hp.1
    have e : sm a p (p + 1) = sm a p p + ch p p * a ^ p := rfl
    have h := sm_mod hp a (p - 1) (by omega)
    rw [show p - 1 + 1 = p from by omega] at h
    rw [← sm_all, e, ch_self, Nat.one_mul, Nat.add_mod, h, fermat hp a, Nat.add_comm, Nat.mod_add_mod]
theorem cancel {p a b c : Nat} (hp : Pr p) (ha : ¬ p ∣ a) (hbc : c ≤ b) (h : a * b % p = a * c % p) : b % p = c % p := by
  have h1 : p ∣ a * b - a * c := (Nat.dvd_iff_mod_eq_zero ..).2 (Nat.sub_mod_eq_zero_of_mod_eq h)
  rw [← Nat.mul_sub] at h1
  rcases hp.euclid h1 with hd | hd
  · exact absurd hd ha
  · obtain ⟨k, hk⟩ := hd
    rw [show b = c + p * k from by omega, Nat.add_mul_mod_self_left]
theorem fermat1 {p : Nat} (hp : Pr p) (a : Nat) (ha : ¬ p ∣ a) : a ^ (p - 1) % p = 1 := by
  have h2 := hp.1
  have h := fermat hp a
  obtain ⟨n, rfl⟩ : ∃ n, p = n + 1 := ⟨p - 1, by omega⟩
  have ha0 : 0 < a := Nat.pos_of_ne_zero fun h0 => ha (h0 ▸ Nat.dvd_zero _)
  rw [Nat.pow_succ, Nat.mul_comm] at h
  have h' : a * a ^ n % (n + 1) = a * 1 % (n + 1) := by rw [h, Nat.mul_one]
  have := cancel hp ha (Nat.one_le_pow n a ha0) h'
  rw [Nat.mod_eq_of_lt (show 1 < n + 1 by omega)] at this
  exact this
theorem pow_gcd (b r : Nat) (hr : 1 < r) (x y : Nat) : b ^ x % r = 1 → b ^ y % r = 1 → b ^ (Nat.gcd x y) % r = 1 := by
  induction x, y using Nat.gcd.induction with
  | H0 y => intro _ h; rw [Nat.gcd_zero_left]; exact h
  | H1 x y hx ih =>
    intro h1 h2
    rw [Nat.gcd_rec]
    refine ih ?_ h1
    have e : b ^ y = (b ^ x) ^ (y / x) * b ^ (y % x) := by rw [← Nat.pow_mul, ← Nat.pow_add, Nat.div_add_mod]
    rw [e, Nat.mul_mod, Nat.pow_mod, h1, Nat.one_pow, Nat.mod_eq_of_lt hr, Nat.one_mul, Nat.mod_mod] at h2
    exact h2
theorem order {q r b : Nat} (hq : Pr q) (hr : Pr r) (h1 : b ^ q % r = 1) (h2 : b % r ≠ 1) : q ∣ r - 1 := by
  refine Classical.byContradiction fun hn => ?_
  have hr2 := hr.1
  have hb : ¬ r ∣ b := fun hd => by
    obtain ⟨c, rfl⟩ := hd
    obtain ⟨k, rfl⟩ : ∃ k, q = k + 1 := ⟨q - 1, by have := hq.1; omega⟩
    rw [Nat.pow_succ, ← Nat.mul_assoc, Nat.mul_right_comm, Nat.mul_mod_left] at h1
    omega
  have hg := pow_gcd b r (by omega) q (r - 1) h1 (fermat1 hr b hb)
  rw [show Nat.gcd q (r - 1) = 1 from hq.coprime hn, Nat.pow_one] at hg
  exact h2 hg
theorem pock_step {n q r : Nat} (hq : Pr q) (hr : Pr r) (hrn : r ∣ n) (hn : 1 < n) (b : Nat) (h1 : b ^ q % n = 1) (hg : Nat.gcd (b + n - 1) n = 1) : q ∣ r - 1 := by
  have hr2 := hr.1
  have e : ∀ x, x % n % r = x % r := fun x => Nat.mod_mod_of_dvd x hrn
  refine order hq hr (b := b) ?_ ?_
  · rw [← e, h1, Nat.mod_eq_of_lt (by omega)]
  · intro hb
    have hd : r ∣ b + n - 1 := by
      obtain ⟨c, rfl⟩ := hrn
      have e2 := Nat.div_add_mod b r
      rw [hb] at e2
      have : b + r * c - 1 = r * (b / r + c) := by rw [Nat.mul_add]; omega
      exact ⟨_, this⟩
    have := Nat.dvd_gcd hd hrn
    rw [hg] at this
    have := Nat.le_of_dvd (by omega) this
    omega
/-- Pocklington's test by one prime. -/
theorem pock1 (n q b : Nat) (hn : 1 < n) (hq : Pr q) (h1 : b ^ q % n = 1) (hg : Nat.gcd (b + n - 1) n = 1) (hF : n < q * q) : Pr n := by
  refine Classical.byContradiction fun hc => ?_
  obtain ⟨r, hr, hd, hle⟩ := small_factor n (by omega) hc
  have hr2 := hr.1
  have d := Nat.le_of_dvd (by omega) (pock_step hq hr hd hn b h1 hg)
  have : q * q ≤ r * r := Nat.mul_le_mul (by omega) (by omega)
  omega
/-- Pocklington's test by two primes. -/
theorem pock2 (n q b q' b' : Nat) (hn : 1 < n) (hq : Pr q) (hq' : Pr q') (hne : q < q') (h1 : b ^ q % n = 1) (hg : Nat.gcd (b + n - 1) n = 1) (h1' : b' ^ q' % n = 1) (hg' : Nat.gcd (b' + n - 1) n = 1) (hF : n < q * q' * (q * q')) : Pr n := by
  refine Classical.byContradiction fun hc => ?_
  obtain ⟨r, hr, hd, hle⟩ := small_factor n (by omega) hc
  have hr2 := hr.1
  have d := pock_step hq hr hd hn b h1 hg
  have d' := pock_step hq' hr hd hn b' h1' hg'
  have hco : Nat.Coprime q q' := hq.coprime fun h => by
    rcases hq'.2 q h with h | h
    · have := hq.1; omega
    · omega
  have d2 := Nat.le_of_dvd (by omega) (hco.mul_dvd_of_dvd_of_dvd d d')
  have : q * q' * (q * q') ≤ r * r := Nat.mul_le_mul (by omega) (by omega)
  omega

/-- f of x, where x is to be known first. -/
def stric {α : Type} (x : Nat) (f : Nat → α) : α := Nat.rec (motive := fun _ => α) (f 0) (fun n _ => f (n + 1)) x
theorem stric_eq {α : Type} (x : Nat) (f : Nat → α) : stric x f = f x := by cases x <;> rfl
/-- a^e mod n, for an e below 2^f. -/
def pm (n a : Nat) : Nat → Nat → Nat
  | 0, _ => 1 % n
  | f + 1, e => stric (pm n a f (e / 2)) fun h => stric (h * h % n) fun s => if e % 2 = 0 then s else s * a % n
theorem pm_eq (n a : Nat) : ∀ f e, e < 2 ^ f → pm n a f e = a ^ e % n
  | 0, e, h => by
    obtain rfl : e = 0 := by simpa using h
    rfl
  | f + 1, e, h => by
    have ih := pm_eq n a f (e / 2) (by rw [Nat.pow_succ] at h; omega)
    have e0 : pm n a (f + 1) e = if e % 2 = 0 then pm n a f (e / 2) * pm n a f (e / 2) % n else pm n a f (e / 2) * pm n a f (e / 2) % n * a % n := by
      rw [pm, stric_eq, stric_eq]
    have e1 : a ^ (e / 2) % n * (a ^ (e / 2) % n) % n = a ^ (2 * (e / 2)) % n := by rw [← Nat.mul_mod, ← Nat.pow_add, Nat.two_mul]
    rw [e0, ih, e1]
    split
    · rw [show 2 * (e / 2) = e from by omega]
    · rw [show e = 2 * (e / 2) + 1 from by omega, Nat.pow_succ, Nat.mod_mul_mod, show (2 * (e / 2) + 1) / 2 = e / 2 from by omega]
/-- No divisor from k on, of the next f numbers. -/
def nod (n : Nat) : Nat → Nat → Bool
  | 0, _ => true
  | f + 1, k => stric k fun k => (n % k != 0) && nod n f (k + 1)
theorem nod_spec (n : Nat) : ∀ f k, nod n f k = true → ∀ m, k ≤ m → m < k + f → n % m ≠ 0
  | 0, k, _, m, h1, h2 => by omega
  | f + 1, k, h, m, h1, h2 => by
    rw [nod, stric_eq] at h
    simp only [Bool.and_eq_true, bne_iff_ne] at h
    by_cases hm : m = k
    · rw [hm]; exact h.1
    · exact nod_spec n f (k + 1) h.2 m (by omega) (by omega)
theorem trial (n f : Nat) (hn : 1 < n) (h : nod n f 2 = true) (hf : n < (f + 2) * (f + 2)) : Pr n := by
  refine Classical.byContradiction fun hc => ?_
  obtain ⟨r, hr, hd, hle⟩ := small_factor n (by omega) hc
  have hr2 := hr.1
  by_cases hlt : r < 2 + f
  · exact nod_spec n f 2 h r hr2 hlt (Nat.mod_eq_zero_of_dvd hd)
  · have : (f + 2) * (f + 2) ≤ r * r := Nat.mul_le_mul (by omega) (by omega)
    omega
theorem pock1' (n q f : Nat) (k : Nat) (hn : 1 < n) (hq : Pr q) (he : n - 1 < 2 ^ f) (hk : k < 2 ^ f) (hkq : k * q = n - 1) (h1 : pm n 2 f (n - 1) = 1) (hg : Nat.gcd (pm n 2 f k + n - 1) n = 1) (hF : n < q * q) : Pr n := by
  rw [pm_eq n 2 f _ hk] at hg
  rw [pm_eq n 2 f _ he] at h1
  refine pock1 n q (2 ^ k % n) hn hq ?_ hg hF
  rw [← Nat.pow_mod, ← Nat.pow_mul, hkq]
  exact h1
theorem pock2' (n q q' f : Nat) (k k' : Nat) (hn : 1 < n) (hq : Pr q) (hq' : Pr q') (hne : q < q') (he : n - 1 < 2 ^ f) (hk : k < 2 ^ f) (hk' : k' < 2 ^ f) (hkq : k * q = n - 1) (hkq' : k' * q' = n - 1) (h1 : pm n 2 f (n - 1) = 1)
    (hg : Nat.gcd (pm n 2 f k + n - 1) n = 1) (hg' : Nat.gcd (pm n 2 f k' + n - 1) n = 1) (hF : n < q * q' * (q * q')) : Pr n := by
  rw [pm_eq n 2 f _ hk] at hg
  rw [pm_eq n 2 f _ hk'] at hg'
  rw [pm_eq n 2 f _ he] at h1
  refine pock2 n q (2 ^ k % n) q' (2 ^ k' % n) hn hq hq' hne ?_ hg ?_ hg' hF
  · rw [← Nat.pow_mod, ← Nat.pow_mul, hkq]
    exact h1
  · rw [← Nat.pow_mod, ← Nat.pow_mul, hkq']
    exact h1
theorem pr_991 : Pr 991 := trial 991 31 (by decide) (by decide +kernel) (by decide)
theorem pr_103 : Pr 103 := trial 103 10 (by decide) (by decide +kernel) (by decide)
theorem pr_8574133 : Pr 8574133 := pock2' 8574133 103 991 24 83244 8652 (by decide) pr_103 pr_991 (by decide) (by decide) (by decide) (by decide) (by decide +kernel) (by decide +kernel) (by decide +kernel) (by decide +kernel) (by decide +kernel) (by decide)
theorem pr_127 : Pr 127 := trial 127 11 (by decide) (by decide +kernel) (by decide)
theorem pr_1919519569386763 : Pr 1919519569386763 := pock2' 1919519569386763 127 8574133 51 15114327318006 223873314 (by decide) pr_127 pr_8574133 (by decide) (by decide) (by decide) (by decide) (by decide +kernel) (by decide +kernel) (by decide +kernel) (by decide +kernel) (by decide +kernel) (by decide)
theorem pr_569003 : Pr 569003 := trial 569003 754 (by decide) (by decide +kernel) (by decide)
theorem pr_2773320623 : Pr 2773320623 := pock1' 2773320623 569003 32 4874 (by decide) pr_569003 (by decide) (by decide) (by decide +kernel) (by decide +kernel) (by decide +kernel) (by decide)
theorem pr_72106336199 : Pr 72106336199 := pock1' 72106336199 2773320623 37 26 (by decide) pr_2773320623 (by decide) (by decide) (by decide +kernel) (by decide +kernel) (by decide +kernel) (by decide)
theorem pr_75445702479781427272750846543864801 : Pr 75445702479781427272750846543864801 := pock2' 75445702479781427272750846543864801 72106336199 1919519569386763 116 1046311689884858398375200 39304471641247389600 (by decide) pr_72106336199 pr_1919519569386763 (by decide) (by decide) (by decide) (by decide) (by decide +kernel) (by decide +kernel) (by decide +kernel) (by decide +kernel) (by decide +kernel) (by decide)
theorem pr_430751 : Pr 430751 := trial 430751 656 (by decide) (by decide +kernel) (by decide)
theorem pr_4153 : Pr 4153 := trial 4153 64 (by decide) (by decide +kernel) (by decide)
theorem pr_31757755568855353 : Pr 31757755568855353 := pock2' 31757755568855353 4153 430751 55 7646943310584 73726481352 (by decide) pr_4153 pr_430751 (by decide) (by decide) (by decide) (by decide) (by decide +kernel) (by decide +kernel) (by decide +kernel) (by decide +kernel) (by decide +kernel) (by decide)
theorem pr_74058212732561358302231226437062788676166966415465897661863160754340907 : Pr 74058212732561358302231226437062788676166966415465897661863160754340907 := pock2' 74058212732561358302231226437062788676166966415465897661863160754340907 31757755568855353 75445702479781427272750846543864801 236 2331972502653487852620185443007392165117953542933313402 981609426360740691344999861639072106 (by decide) pr_31757755568855353 pr_75445702479781427272750846543864801 (by decide) (by decide) (by decide) (by decide) (by decide +kernel) (by decide +kernel) (by decide +kernel) (by decide +kernel) (by decide +kernel) (by decide)
theorem pr_57896044618658097711785492504343953926634992332820282019728792003956564819949 : Pr 57896044618658097711785492504343953926634992332820282019728792003956564819949 := pock1' 57896044618658097711785492504343953926634992332820282019728792003956564819949 74058212732561358302231226437062788676166966415465897661863160754340907 255 781764 (by decide) pr_74058212732561358302231226437062788676166966415465897661863160754340907 (by decide) (by decide) (by decide +kernel) (by decide +kernel) (by decide +kernel) (by decide)
end Go.Proofs.Ytgdimnbdnepbgaa
/- Roots modulo a prime that is 5 modulo 8. No statement is proved here. -/
namespace Go.Proofs.Ytgdimnbdnepbgaa
set_option linter.unusedVariables false

theorem mm (a b n : Nat) : a % n * (b % n) % n = a * b % n := (Nat.mul_mod a b n).symm
theorem dvd_mod {p a : Nat} (h : p ∣ a) : a % p = 0 := Nat.mod_eq_zero_of_dvd h
theorem not_dvd {p a : Nat} (h : a % p ≠ 0) : ¬ p ∣ a := fun hd => h (dvd_mod hd)
/-- p - x has the same square. -/
theorem neg_sq (p x : Nat) (h : x ≤ p) : (p - x) * (p - x) % p = x * x % p := by
  obtain ⟨y, rfl⟩ : ∃ y, p = x + y := ⟨p - x, by omega⟩
  rw [Nat.add_sub_cancel_left]
  have e : y * y + (x + y) * x = x * x + (x + y) * y := by
    rw [Nat.add_mul, Nat.add_mul, Nat.mul_comm y x]; omega
  rw [← Nat.add_mul_mod_self_left (y * y) (x + y) x, e, Nat.add_mul_mod_self_left]
theorem eq_or_neg {p x a : Nat} (hp : Pr p) (hx : x < p) (ha : a < p) (h : x * x % p = a * a % p) : x = a ∨ x = (p - a) % p := by
  have h2 := hp.1
  by_cases ha0 : a = 0
  · subst ha0
    rw [Nat.mul_zero, Nat.zero_mod] at h
    rcases hp.euclid (Nat.dvd_of_mod_eq_zero h) with hd | hd <;>
    · have := dvd_mod hd
      rw [Nat.mod_eq_of_lt hx] at this
      exact .inl this
  have key : ∀ u v : Nat, u ≤ v → v < p → 0 < u + v → u * u % p = v * v % p → u = v ∨ u + v = p := by
    intro u v huv hv h0 he
    have h1 : p ∣ v * v - u * u := Nat.dvd_of_mod_eq_zero (Nat.sub_mod_eq_zero_of_mod_eq he.symm)
    obtain ⟨d, rfl⟩ : ∃ d, v = u + d := ⟨v - u, by omega⟩
    have e : (u + d) * (u + d) - u * u = d * (u + (u + d)) := by
      rw [Nat.add_mul, Nat.mul_add, Nat.mul_add, Nat.mul_add, Nat.mul_add, Nat.mul_comm u d]; omega
    rw [e] at h1
    rcases hp.euclid h1 with hd | hd
    · rcases Nat.eq_zero_or_pos d with h00 | h00
      · left; omega
      · have := Nat.le_of_dvd h00 hd; omega
    · right
      obtain ⟨c, hc⟩ := hd
      have hc1 : c ≠ 0 := fun h => by subst h; omega
      have hc2 : c < 2 := Nat.lt_of_not_le fun h => by
        have : p * 2 ≤ p * c := Nat.mul_le_mul_left p h
        omega
      obtain rfl : c = 1 := by omega
      omega
  rw [Nat.mod_eq_of_lt (show p - a < p by omega)]
  rcases Nat.le_total x a with hxa | hxa
  · rcases key x a hxa ha (by omega) h with h | h
    · exact .inl h
    · exact .inr (by omega)
  · rcases key a x hxa hx (by omega) h.symm with h | h
    · exact .inl h.symm
    · exact .inr (by omega)
theorem one_or_neg {p x : Nat} (hp : Pr p) (hx : x < p) (h : x * x % p = 1) : x = 1 ∨ x = p - 1 := by
  have h2 := hp.1
  have := eq_or_neg hp hx (show 1 < p by omega) (by rw [h, Nat.mul_one, Nat.mod_eq_of_lt (by omega)])
  rwa [Nat.mod_eq_of_lt (show p - 1 < p by omega)] at this
theorem cancel2 {p a b c : Nat} (hp : Pr p) (ha : ¬ p ∣ a) (h : a * b % p = a * c % p) : b % p = c % p := by
  rcases Nat.le_total c b with h1 | h1
  · exact cancel hp ha h1 h
  · exact (cancel hp ha h1 h.symm).symm

/-- The one of x and p - x that is even. -/
def evn (p x : Nat) : Nat := if x % 2 = 1 then (p - x) % p else x
/-- The root, as the program makes it. -/
def rt (p k a : Nat) : Nat × Bool :=
  if (a % p) ^ (k + 1) % p * ((a % p) ^ (k + 1) % p) % p = a % p then (evn p ((a % p) ^ (k + 1) % p), true)
  else if (a % p) ^ (k + 1) % p * ((a % p) ^ (k + 1) % p) % p = (p - a % p) % p then (evn p ((a % p) ^ (k + 1) % p * (2 ^ (2 * k + 1) % p) % p), true)
  else (0, false)
theorem evn_lt {p x : Nat} (h : x < p) : evn p x < p := by
  unfold evn
  split
  · exact Nat.mod_lt _ (by omega)
  · exact h
theorem evn_sq {p x : Nat} (h : x < p) : evn p x * evn p x % p = x * x % p := by
  unfold evn
  split
  · rw [mm, neg_sq p x (by omega)]
  · rfl
theorem evn_even {p x : Nat} (hp : p % 2 = 1) (h : x < p) : evn p x % 2 = 0 := by
  unfold evn
  split
  · rw [Nat.mod_eq_of_lt (show p - x < p by omega)]
    omega
  · omega

theorem t_sq {p k : Nat} (hp : Pr p) (hk : p = 8 * k + 5) (a : Nat) : a ^ (2 * k + 1) % p * (a ^ (2 * k + 1) % p) % p = a ^ (4 * k + 2) % p := by
  rw [mm, ← Nat.pow_add, show 2 * k + 1 + (2 * k + 1) = 4 * k + 2 from by omega]
theorem chi_sq {p k : Nat} (hp : Pr p) (hk : p = 8 * k + 5) (a : Nat) (ha : ¬ p ∣ a) : a ^ (4 * k + 2) % p * (a ^ (4 * k + 2) % p) % p = 1 := by
  rw [mm, ← Nat.pow_add, show 4 * k + 2 + (4 * k + 2) = p - 1 from by omega]
  exact fermat1 hp a ha
theorem chi_two {p k : Nat} (hp : Pr p) (hk : p = 8 * k + 5) (a : Nat) (ha : ¬ p ∣ a) : a ^ (4 * k + 2) % p = 1 ∨ a ^ (4 * k + 2) % p = p - 1 :=
  one_or_neg hp (Nat.mod_lt _ (by omega)) (chi_sq hp hk a ha)
/-- r squared is a times t. -/
theorem r_sq {p k : Nat} (hp : Pr p) (hk : p = 8 * k + 5) (a : Nat) : (a % p) ^ (k + 1) % p * ((a % p) ^ (k + 1) % p) % p = a * a ^ (2 * k + 1) % p := by
  rw [mm, ← Nat.pow_add, ← Nat.pow_mod, ← Nat.pow_succ', show k + 1 + (k + 1) = 2 * k + 1 + 1 from by omega]
theorem r_is {p k : Nat} (hp : Pr p) (hk : p = 8 * k + 5) (a : Nat) (ha : ¬ p ∣ a) : (a % p) ^ (k + 1) % p * ((a % p) ^ (k + 1) % p) % p = a % p ↔ a ^ (2 * k + 1) % p = 1 := by
  rw [r_sq hp hk]
  constructor
  · intro h
    have := cancel2 hp ha (b := a ^ (2 * k + 1)) (c := 1) (by rw [Nat.mul_one]; exact h)
    rw [this, Nat.mod_eq_of_lt (by omega)]
  · intro h
    rw [← Nat.mul_mod_mod, h, Nat.mul_one]
theorem neg_mod {p k : Nat} (hp : Pr p) (hk : p = 8 * k + 5) (a : Nat) : (p - a % p) % p = a * (p - 1) % p := by
  have h0 : a % p < p := Nat.mod_lt _ (by omega)
  rw [← Nat.mod_mul_mod]
  generalize a % p = x at *
  by_cases hx : x = 0
  · subst hx; simp
  · rw [show x * (p - 1) = p - x + p * (x - 1) from by
      obtain ⟨y, rfl⟩ : ∃ y, x = y + 1 := ⟨x - 1, by omega⟩
      obtain ⟨q, hq⟩ : ∃ q, p = q + 1 := ⟨p - 1, by omega⟩
      rw [hq, Nat.add_sub_cancel, Nat.add_sub_cancel, Nat.add_mul, Nat.add_mul, Nat.mul_comm y q]
      omega, Nat.add_mul_mod_self_left]
theorem r_neg {p k : Nat} (hp : Pr p) (hk : p = 8 * k + 5) (a : Nat) (ha : ¬ p ∣ a) : (a % p) ^ (k + 1) % p * ((a % p) ^ (k + 1) % p) % p = (p - a % p) % p ↔ a ^ (2 * k + 1) % p = p - 1 := by
  rw [r_sq hp hk, neg_mod hp hk]
  constructor
  · intro h
    have := cancel2 hp ha h
    rw [this, Nat.mod_eq_of_lt (by omega)]
  · intro h
    rw [← Nat.mul_mod_mod, h]
theorem rt_ok {p k : Nat} (hp : Pr p) (hk : p = 8 * k + 5) (a : Nat) (ha : ¬ p ∣ a) : (rt p k a).2 = decide (a ^ (4 * k + 2) % p = 1) := by
  unfold rt
  have hlt : a ^ (2 * k + 1) % p < p := Nat.mod_lt _ (by omega)
  have hs := t_sq hp hk a
  have h1 := r_is hp hk a ha
  have h2 := r_neg hp hk a ha
  by_cases c1 : a ^ (2 * k + 1) % p = 1
  · rw [if_pos (h1.2 c1)]
    rw [c1, Nat.mul_one, Nat.mod_eq_of_lt (show 1 < p by omega)] at hs
    simp [← hs]
  · by_cases c2 : a ^ (2 * k + 1) % p = p - 1
    · rw [if_neg (fun h => c1 (h1.1 h)), if_pos (h2.2 c2)]
      rw [c2, neg_sq p 1 (by omega), Nat.mul_one, Nat.mod_eq_of_lt (show 1 < p by omega)] at hs
      simp [← hs]
    · rw [if_neg (fun h => c1 (h1.1 h)), if_neg (fun h => c2 (h2.1 h))]
      have : ¬ a ^ (4 * k + 2) % p = 1 := fun h => by
        rw [← hs] at h
        rcases one_or_neg hp hlt h with h | h
        · exact c1 h
        · exact c2 h
      simp [this]
theorem rt_none {p k : Nat} (hp : Pr p) (hk : p = 8 * k + 5) (a : Nat) (h : (rt p k a).2 = false) : (rt p k a).1 = 0 := by
  unfold rt at *
  split at h
  · cases h
  · rename_i h1
    rw [if_neg h1]
    split at h
    · cases h
    · rename_i h2
      rw [if_neg h2]
theorem rt_lt {p k : Nat} (hp : Pr p) (hk : p = 8 * k + 5) (a : Nat) : (rt p k a).1 < p := by
  unfold rt
  split
  · exact evn_lt (Nat.mod_lt _ (by omega))
  · split
    · exact evn_lt (Nat.mod_lt _ (by omega))
    · show 0 < p
      omega
theorem rt_sq {p k : Nat} (hp : Pr p) (hk : p = 8 * k + 5) (htwo : 2 ^ (4 * k + 2) % p = p - 1) (a : Nat) (h : (rt p k a).2 = true) : (rt p k a).1 * (rt p k a).1 % p = a % p ∧ (rt p k a).1 % 2 = 0 := by
  have hl : ∀ x : Nat, x % p < p := fun x => Nat.mod_lt _ (by omega)
  unfold rt at *
  split
  · rename_i h1
    exact ⟨(evn_sq (hl _)).trans h1, evn_even (by omega) (hl _)⟩
  · split
    · rename_i h1 h2
      refine ⟨?_, evn_even (by omega) (hl _)⟩
      show evn p _ * evn p _ % p = _
      rw [evn_sq (hl _), mm, Nat.mul_mul_mul_comm, Nat.mul_mod, h2]
      rw [t_sq hp hk 2, htwo]
      have h3 := neg_mod hp hk (p - a % p)
      rw [← Nat.mod_mul_mod] at h3
      rw [← h3]
      by_cases h0 : a % p = 0
      · rw [h0, Nat.sub_zero, Nat.mod_self, Nat.sub_zero, Nat.mod_self]
      · have := hl a
        rw [Nat.mod_eq_of_lt (show p - a % p < p by omega), show p - (p - a % p) = a % p from by omega, Nat.mod_mod]
    · rename_i h1 h2
      rw [if_neg h1, if_neg h2] at h
      cases h
/-- The root of a square. -/
theorem rt_square {p k : Nat} (hp : Pr p) (hk : p = 8 * k + 5) (htwo : 2 ^ (4 * k + 2) % p = p - 1) (a : Nat) (ha : ¬ p ∣ a) : rt p k (a * a % p) = (evn p (a % p), true) := by
  have hl : ∀ x : Nat, x % p < p := fun x => Nat.mod_lt _ (by omega)
  have hna : ¬ p ∣ a * a % p := fun h => by
    have h1 := dvd_mod h
    rw [Nat.mod_mod] at h1
    rcases hp.euclid (Nat.dvd_of_mod_eq_zero h1) with h | h <;> exact ha h
  have hok : (rt p k (a * a % p)).2 = true := by
    rw [rt_ok hp hk _ hna, ← Nat.pow_mod, Nat.mul_pow, ← mm]
    simp [chi_sq hp hk a ha]
  obtain ⟨h1, h2⟩ := rt_sq hp hk htwo _ hok
  have hlt := rt_lt hp hk (a * a % p)
  refine Prod.ext ?_ hok
  show (rt p k (a * a % p)).1 = evn p (a % p)
  rw [Nat.mod_mod] at h1
  have h1 := h1.trans (mm a a p).symm
  have he := evn_even (p := p) (by omega) (hl a)
  have h0 : a % p ≠ 0 := fun h => ha (Nat.dvd_of_mod_eq_zero h)
  have hp2 := hl a
  rcases eq_or_neg hp hlt (hl a) h1 with h | h
  · unfold evn
    rw [h] at h2
    rw [if_neg (by omega), h]
  · rw [Nat.mod_eq_of_lt (show p - a % p < p by omega)] at h
    unfold evn
    rw [h] at h2
    rw [if_pos (by omega), Nat.mod_eq_of_lt (show p - a % p < p by omega), h]
/-- Twice a square has none. -/
theorem rt_double {p k : Nat} (hp : Pr p) (hk : p = 8 * k + 5) (htwo : 2 ^ (4 * k + 2) % p = p - 1) (a : Nat) (ha : ¬ p ∣ a) : rt p k (2 * (a * a % p) % p) = (0, false) := by
  have hna : ¬ p ∣ 2 * (a * a % p) % p := fun h => by
    have h1 := dvd_mod h
    rw [Nat.mod_mod, Nat.mul_mod_mod] at h1
    rcases hp.euclid (Nat.dvd_of_mod_eq_zero h1) with h | h
    · have := Nat.le_of_dvd (by omega) h
      omega
    · rcases hp.euclid h with h | h <;> exact ha h
  have hno : (rt p k (2 * (a * a % p) % p)).2 = false := by
    rw [rt_ok hp hk _ hna, ← Nat.pow_mod, Nat.pow_mod, Nat.mul_mod_mod, ← Nat.pow_mod, Nat.mul_pow, Nat.mul_pow, ← mm, ← mm (a ^ (4 * k + 2)), chi_sq hp hk a ha, htwo, Nat.mul_one, Nat.mod_eq_of_lt (show p - 1 < p by omega)]
    simp
    omega
  exact Prod.ext (rt_none hp hk _ hno) hno
theorem rt_mul {p k : Nat} (hp : Pr p) (hk : p = 8 * k + 5) (a b : Nat) (ha : ¬ p ∣ a) (hb : ¬ p ∣ b) : (rt p k (a * b % p)).2 = ((rt p k a).2 == (rt p k b).2) := by
  have hna : ¬ p ∣ a * b % p := fun h => by
    have h1 := dvd_mod h
    rw [Nat.mod_mod] at h1
    rcases hp.euclid (Nat.dvd_of_mod_eq_zero h1) with h | h
    · exact ha h
    · exact hb h
  rw [rt_ok hp hk _ hna, rt_ok hp hk _ ha, rt_ok hp hk _ hb, ← Nat.pow_mod, Nat.mul_pow, ← mm]
  have hn : p - 1 ≠ 1 := by omega
  rcases chi_two hp hk a ha with h1 | h1 <;> rcases chi_two hp hk b hb with h2 | h2 <;> rw [h1, h2]
  · rw [Nat.mul_one, Nat.mod_eq_of_lt (show 1 < p by omega)]; simp
  · rw [Nat.one_mul, Nat.mod_eq_of_lt (show p - 1 < p by omega)]; simp [hn]
  · rw [Nat.mul_one, Nat.mod_eq_of_lt (show p - 1 < p by omega)]; simp [hn]
  · rw [neg_sq p 1 (by omega), Nat.mul_one, Nat.mod_eq_of_lt (show 1 < p by omega)]; simp
end Go.Proofs.Ytgdimnbdnepbgaa
/- The field's functions in numbers. No statement is proved here. -/
namespace Go.Proofs.Ytgdimnbdnepbgaa
open Go.RowKit
set_option linter.unusedVariables false
set_option linter.unusedSimpArgs false
set_option maxRecDepth 40000

theorem prP : Pr PP := pr_57896044618658097711785492504343953926634992332820282019728792003956564819949
theorem PP_lt : PP < TT := by unfold PP TT; omega
theorem modP (x : Nat) : x % PP < PP := Nat.mod_lt _ (by unfold PP; omega)
theorem modT (x : Nat) : x % PP < TT := Nat.lt_trans (modP x) PP_lt
theorem subT (a : Nat) : PP - a % PP < TT := Nat.lt_of_le_of_lt (Nat.sub_le _ _) PP_lt

theorem Canon_any (a : Nat) (ha : a < TT) (w : World) : Calls Try.prog 15 #[vN a] w (Gives (.bool (decide (a = a % PP))) w) :=
  Canon_core a (a % PP) _ w (Lib.hid fun w => Rest_any a ha w) (Lib.hid fun w => eqN a _ ha (modT a) w)
theorem Neg_any (a : Nat) (ha : a < TT) (w : World) : Calls Try.prog 23 #[vN a] w (Gives (vN ((PP - a % PP) % PP)) w) := by
  have h : ∀ w, Calls Try.prog 21 #[vN 0, vN a] w (Gives (vN ((0 + (PP - a % PP)) % PP)) w) := fun w => Sub_any 0 a (by unfold TT; omega) ha w
  rw [Nat.zero_add] at h
  exact Neg_core a _ w (Lib.hid h)
theorem index_first (r : Nat) (w : World) : (Instr.index 23 (vN r) (.int .i64 0)).run Try.prog w = .ok (.int .u8 ((r % 256 : Nat) : Int)) w := by
  have h : (Instr.index 23 (vN r) (.int .i64 0)).run Try.prog w = .ok (.int .u8 ((UInt8.ofNat (r % 18446744073709551616)).toNat : Int)) w := by kernel_rfl
  rw [h, of_byte, Nat.mod_mod_of_dvd _ ⟨72057594037927936, by decide⟩]
theorem and_one : ∀ x : Nat, x < 256 → (bits .and .u8 (x : Int) 1 == 1) = decide (x % 2 = 1) := by decide +kernel
theorem Odd_any (a : Nat) (ha : a < TT) (w : World) : Calls Try.prog 31 #[vN a] w (Gives (.bool (decide (a % PP % 2 = 1))) w) := by
  refine Odd_core a (a % PP) _ w (Lib.hid fun w => Rest_any a ha w) (Lib.hid fun w => index_first _ w) ?_
  have h := and_one (a % PP % 256) (Nat.mod_lt _ (by omega))
  rw [show a % PP % 256 % 2 = a % PP % 2 from Nat.mod_mod_of_dvd _ ⟨128, by decide⟩] at h
  exact Lib.hid h
theorem Same_any (a b : Nat) (ha : a < TT) (hb : b < TT) (w : World) : Calls Try.prog 33 #[vN a, vN b] w (Gives (.bool (decide (a % PP = b % PP))) w) :=
  Same_core a b (a % PP) (b % PP) _ w (Lib.hid fun w => Rest_any a ha w) (Lib.hid fun w => Rest_any b hb w) (Lib.hid fun w => eqN _ _ (modT a) (modT b) w)
theorem Inv_any (q : Nat) (hq : PP = q + 2) (a : Nat) (ha : a < TT) (w : World) : Calls Try.prog 29 #[vN a] w (Gives (vN (a ^ q % PP)) w) := by
  have h : ∀ w, Calls Try.prog 61 #[.int .u8 235, .int .u8 127] w (Gives (vN q) w) := fun w => by
    have h := ones_inv w
    rw [show PP - 2 = q from by omega] at h
    exact h
  exact Inv_core a q _ w (Lib.hid h) (Lib.hid fun w => Pow_any a q ha (by have := PP_lt; omega) w)
theorem even_any (a : Nat) (ha : a < PP) (w : World) : Calls Try.prog 62 #[vN a] w (Gives (vN (evn PP a)) w) := by
  have hm : a % PP = a := Nat.mod_eq_of_lt ha
  refine even_core a ((PP - a % PP) % PP) _ (decide (a % PP % 2 = 1)) w (Lib.hid fun w => Odd_any a (Nat.lt_trans ha PP_lt) w) (Lib.hid fun w => Neg_any a (Nat.lt_trans ha PP_lt) w) ?_
  rw [hm]
  unfold evn
  by_cases h : a % 2 = 1
  · exact Lib.hid (by simp [h])
  · exact Lib.hid (by simp [h])
theorem quarter_any (k : Nat) (hk : PP = 8 * k + 5) (w : World) : Calls Try.prog 61 #[.int .u8 251, .int .u8 31] w (Gives (vN (2 * k + 1)) w) := by
  have h := ones_quarter w
  rw [show 14474011154664524427946373126085988481658748083205070504932198000989141204987 = 2 * k + 1 from by unfold PP at hk; omega] at h
  exact h
theorem eighth_any (k : Nat) (hk : PP = 8 * k + 5) (w : World) : Calls Try.prog 61 #[.int .u8 254, .int .u8 15] w (Gives (vN (k + 1)) w) := by
  have h := ones_root w
  rw [show 7237005577332262213973186563042994240829374041602535252466099000494570602494 = k + 1 from by unfold PP at hk; omega] at h
  exact h
theorem minusOne_any (k : Nat) (hk : PP = 8 * k + 5) (w : World) : Calls Try.prog 63 #[] w (Gives (vN (2 ^ (2 * k + 1) % PP)) w) :=
  rootOfMinusOne_core (2 * k + 1) _ w (Lib.hid fun w => Of_any 2 (by omega) w) (Lib.hid (quarter_any k hk)) (Lib.hid fun w => Pow_any 2 (2 * k + 1) (by unfold TT; omega) (by have := PP_lt; omega) w)
theorem Root_any (k : Nat) (hk : PP = 8 * k + 5) (a : Nat) (ha : a < TT) (w : World) : Calls Try.prog 11 #[vN a] w (Gives (.tuple #[vN (rt PP k a).1, .bool (rt PP k a).2]) w) := by
  have hO := eighth_any k hk
  have hP : ∀ w, Calls Try.prog 27 #[vN (a % PP), vN (k + 1)] w (Gives (vN ((a % PP) ^ (k + 1) % PP)) w) := fun w => Pow_any (a % PP) (k + 1) (modT a) (by have := PP_lt; omega) w
  have hN : ∀ w, Calls Try.prog 23 #[vN (a % PP)] w (Gives (vN ((PP - a % PP) % PP)) w) := fun w => by
    have h := Neg_any (a % PP) (modT a) w
    rw [Nat.mod_mod] at h
    exact h
  have hX : ((rt PP k a).1, (rt PP k a).2) = (if decide ((a % PP) ^ (k + 1) % PP * ((a % PP) ^ (k + 1) % PP) % PP = a % PP) = true then (evn PP ((a % PP) ^ (k + 1) % PP), true)
      else if decide ((a % PP) ^ (k + 1) % PP * ((a % PP) ^ (k + 1) % PP) % PP = (PP - a % PP) % PP) = true then (evn PP ((a % PP) ^ (k + 1) % PP * (2 ^ (2 * k + 1) % PP) % PP), true) else (0, false)) := by
    simp only [decide_eq_true_eq]
    rfl
  have hr : (a % PP) ^ (k + 1) % PP < PP := modP _
  have hi : 2 ^ (2 * k + 1) % PP < PP := modP _
  have h36 := minusOne_any k hk
  generalize (rt PP k a).1 = x at *
  generalize (rt PP k a).2 = ok at *
  generalize (a % PP) ^ (k + 1) % PP = r at *
  generalize 2 ^ (2 * k + 1) % PP = i at *
  exact Root_core a (a % PP) (k + 1) r (r * r % PP) ((PP - a % PP) % PP) i (r * i % PP) _ _ x _ _ ok w (Lib.hid fun w => Rest_any a ha w) (Lib.hid hO) (Lib.hid hP) (Lib.hid fun w => Mul_any r r (Nat.lt_trans hr PP_lt) (Nat.lt_trans hr PP_lt) w)
    (Lib.hid fun w => eqN _ _ (modT _) (modT _) w) (Lib.hid fun w => even_any r hr w) (Lib.hid hN) (Lib.hid fun w => eqN _ _ (modT _) (modT _) w) (Lib.hid h36)
    (Lib.hid fun w => Mul_any r i (Nat.lt_trans hr PP_lt) (Nat.lt_trans hi PP_lt) w) (Lib.hid fun w => even_any _ (modP _) w) (Lib.hid hX)
theorem htwo (k : Nat) (hk : PP = 8 * k + 5) : 2 ^ (4 * k + 2) % PP = PP - 1 := by
  rw [show 4 * k + 2 = 28948022309329048855892746252171976963317496166410141009864396001978282409974 from by unfold PP at hk; omega]
  have h := pm_eq PP 2 256 28948022309329048855892746252171976963317496166410141009864396001978282409974 (by decide)
  have e : pm PP 2 256 28948022309329048855892746252171976963317496166410141009864396001978282409974 = PP - 1 := by decide +kernel
  exact h.symm.trans e
end Go.Proofs.Ytgdimnbdnepbgaa
/- The chapter's examples. No statement is proved here. -/
namespace Go.Proofs.Ytgdimnbdnepbgaa
open Go.RowKit
set_option linter.unusedVariables false
set_option linter.unusedSimpArgs false
set_option maxRecDepth 40000

set_option maxHeartbeats 4000000 in
theorem lives_core (l v : Nat) (w : World)
    (HOf0 : Hid (∀ w, Calls Try.prog 17 #[.int .u64 0] w (Gives (vN 0) w))) (HOf1 : Hid (∀ w, Calls Try.prog 17 #[.int .u64 1] w (Gives (vN 1) w))) (HOf2 : Hid (∀ w, Calls Try.prog 17 #[.int .u64 2] w (Gives (vN 2) w))) (HOf4 : Hid (∀ w, Calls Try.prog 17 #[.int .u64 4] w (Gives (vN 4) w)))
    (HSub : Hid (∀ w, Calls Try.prog 21 #[vN 0, vN 1] w (Gives (vN l) w)))
    (HR4 : Hid (∀ w, Calls Try.prog 11 #[vN 4] w (Gives (.tuple #[vN 2, .bool true]) w))) (HR2 : Hid (∀ w, Calls Try.prog 11 #[vN 2] w (Gives (.tuple #[vN 0, .bool false]) w)))
    (HAdd : Hid (∀ w, Calls Try.prog 19 #[vN l, vN 2] w (Gives (vN 1) w))) (HInv : Hid (∀ w, Calls Try.prog 29 #[vN 2] w (Gives (vN v) w))) (HMul : Hid (∀ w, Calls Try.prog 25 #[vN 2, vN v] w (Gives (vN 1) w)))
    (HNeg : Hid (∀ w, Calls Try.prog 23 #[vN 0] w (Gives (vN 0) w))) :
    Calls Try.prog 10 #[] w (Gives (.bool true) w) := by
  go_enter Try.func10, Try.ntmps10
  go_wp2_with fail
  refine (HOf0.out _).mono ?_
  rintro ex x1 ⟨rfl, hb⟩
  have HB_1 : Hid (Below w.heap.size w x1) := hb
  clear hb 
  go_wp2_with fail
  refine (HOf1.out _).mono ?_
  rintro ex x2 ⟨rfl, hb⟩
  have HB_2 := Lib.hid (HB_1.out.trans (hb.mono HB_1.out.size))
  clear hb  HB_1
  go_wp2_with fail
  refine (HSub.out _).mono ?_
  rintro ex x3 ⟨rfl, hb⟩
  have HB_3 := Lib.hid (HB_2.out.trans (hb.mono HB_2.out.size))
  clear hb  HB_2
  go_wp2_with (first | ((with_reducible show wpList _ _ _ (⟨some 1, .alloc 23, _, _, _, _⟩ :: _) _ _); go_must (refine wpList_alloc_row rfl 23 rfl (.agg (zbs 32)) zero23 ?_; intro u4 h1 z1 g1; have H4 := Lib.hid h1; have Z4 := Lib.hid z1; have G4 := Lib.hid g1; clear h1 z1 g1)) | ((with_reducible show wpList _ _ _ (⟨none, .store 23 (.tmp 1) (.tmp 8), _, _, _, _⟩ :: _) _ _); go_must (refine wpList_store_all rfl 23 (.tmp 1) (.tmp 8) rfl (x3.heap.size) rfl (bcs (enc l)).toArray rfl 23 _ H4.out (by rw [List.size_toArray, bcs_enc_len]; exact size23) (by rw [List.size_toArray, bcs_enc_len]; rfl) (bcs_one _) ?_; intro v4 hh hg hz; have HH4 := Lib.hid hh; have HG4 := Lib.hid hg; clear hh hg hz)) | fail)
  have L_4 : Hid (NAt v4 x3.heap.size l) := Lib.hid ⟨23, HH4.out⟩
  have HB_4 : Hid (Below w.heap.size w v4) := Lib.hid ((HB_3.out.grown G4.out HB_3.out.size (by simp)).grown HG4.out (by have := HB_3.out.size; have := Z4.out; omega) (fun r hr => by injection hr with hr; have := HB_3.out.size; omega))
  clear H4 Z4 G4 HH4 HG4 HB_3 
  generalize x3.heap.size = g1 at *
  refine (HOf4.out _).mono ?_
  rintro ex x5 ⟨rfl, hb⟩
  have L_5 := Lib.hid (L_4.out.keep hb)
  have HB_5 := Lib.hid (HB_4.out.trans (hb.mono HB_4.out.size))
  clear hb L_4 HB_4
  go_wp2_with fail
  refine (HR4.out _).mono ?_
  rintro ex x6 ⟨rfl, hb⟩
  have L_6 := Lib.hid (L_5.out.keep hb)
  have HB_6 := Lib.hid (HB_5.out.trans (hb.mono HB_5.out.size))
  clear hb L_5 HB_5
  go_wp2_with (first | ((with_reducible show wpList _ _ _ (⟨some 2, .alloc 23, _, _, _, _⟩ :: _) _ _); go_must (refine wpList_alloc_row rfl 23 rfl (.agg (zbs 32)) zero23 ?_; intro u7 h1 z1 g1; have H7 := Lib.hid h1; have Z7 := Lib.hid z1; have G7 := Lib.hid g1; clear h1 z1 g1)) | ((with_reducible show wpList _ _ _ (⟨none, .store 23 (.tmp 2) (.tmp 12), _, _, _, _⟩ :: _) _ _); go_must (refine wpList_store_all rfl 23 (.tmp 2) (.tmp 12) rfl (x6.heap.size) rfl (bcs (enc 2)).toArray rfl 23 _ H7.out (by rw [List.size_toArray, bcs_enc_len]; exact size23) (by rw [List.size_toArray, bcs_enc_len]; rfl) (bcs_one _) ?_; intro v7 hh hg hz; have HH7 := Lib.hid hh; have HG7 := Lib.hid hg; clear hh hg hz)) | fail)
  have L_7 := Lib.hid ((L_6.out.grown G7.out (by simp)).grown HG7.out (by have := L_6.out.lt; simp; omega))
  have R_7 : Hid (NAt v7 x6.heap.size 2) := Lib.hid ⟨23, HH7.out⟩
  have HB_7 : Hid (Below w.heap.size w v7) := Lib.hid ((HB_6.out.grown G7.out HB_6.out.size (by simp)).grown HG7.out (by have := HB_6.out.size; have := Z7.out; omega) (fun r hr => by injection hr with hr; have := HB_6.out.size; omega))
  clear H7 Z7 G7 HH7 HG7 HB_6 L_6
  generalize x6.heap.size = g2 at *
  refine (HOf2.out _).mono ?_
  rintro ex x8 ⟨rfl, hb⟩
  have L_8 := Lib.hid (L_7.out.keep hb)
  have R_8 := Lib.hid (R_7.out.keep hb)
  have HB_8 := Lib.hid (HB_7.out.trans (hb.mono HB_7.out.size))
  clear hb L_7 R_7 HB_7
  go_wp2_with fail
  refine (HR2.out _).mono ?_
  rintro ex x9 ⟨rfl, hb⟩
  have L_9 := Lib.hid (L_8.out.keep hb)
  have R_9 := Lib.hid (R_8.out.keep hb)
  have HB_9 := Lib.hid (HB_8.out.trans (hb.mono HB_8.out.size))
  clear hb L_8 R_8 HB_8
  go_wp2_with (first | ((with_reducible show wpList _ _ _ (⟨some 4, .alloc 23, _, _, _, _⟩ :: _) _ _); go_must (refine wpList_alloc_row rfl 23 rfl (.agg (zbs 32)) zero23 ?_; intro u10 h1 z1 g1; have H10 := Lib.hid h1; have Z10 := Lib.hid z1; have G10 := Lib.hid g1; clear h1 z1 g1)) | ((with_reducible show wpList _ _ _ (⟨none, .store 23 (.tmp 4) (.tmp 17), _, _, _, _⟩ :: _) _ _); go_must (refine wpList_store_all rfl 23 (.tmp 4) (.tmp 17) rfl (x9.heap.size) rfl (bcs (enc 0)).toArray rfl 23 _ H10.out (by rw [List.size_toArray, bcs_enc_len]; exact size23) (by rw [List.size_toArray, bcs_enc_len]; rfl) (bcs_one _) ?_; intro v10 hh hg hz; have HH10 := Lib.hid hh; have HG10 := Lib.hid hg; clear hh hg hz)) | fail)
  have L_10 := Lib.hid ((L_9.out.grown G10.out (by simp)).grown HG10.out (by have := L_9.out.lt; simp; omega))
  have R_10 := Lib.hid ((R_9.out.grown G10.out (by simp)).grown HG10.out (by have := R_9.out.lt; simp; omega))
  have Q_10 : Hid (NAt v10 x9.heap.size 0) := Lib.hid ⟨23, HH10.out⟩
  have HB_10 : Hid (Below w.heap.size w v10) := Lib.hid ((HB_9.out.grown G10.out HB_9.out.size (by simp)).grown HG10.out (by have := HB_9.out.size; have := Z10.out; omega) (fun r hr => by injection hr with hr; have := HB_9.out.size; omega))
  clear H10 Z10 G10 HH10 HG10 HB_9 L_9 R_9
  generalize x9.heap.size = g3 at *
  refine region_qb (by kernel_rfl) (by kernel_rfl) ?_
  refine qb_load rfl (.tmp 1) rfl (g1) l rfl L_10.out ?_
  simp only [Act.put, List.setIfInBounds_toArray, List.set_cons_zero, List.set_cons_succ]
  refine qb_call rfl 17 [.const (.int .u64 2)] #[24] rfl [.int .u64 2] rfl (CF14 _) (vN 2) HOf2.out ?_
  simp only [Act.put, List.setIfInBounds_toArray, List.set_cons_zero, List.set_cons_succ]
  refine qb_call rfl 19 [.tmp 19, .tmp 20] #[23, 23] rfl [vN l, vN 2] rfl (CF23 _) (vN 1) HAdd.out ?_
  simp only [Act.put, List.setIfInBounds_toArray, List.set_cons_zero, List.set_cons_succ]
  refine qb_call rfl 17 [.const (.int .u64 1)] #[24] rfl [.int .u64 1] rfl (CF14 _) (vN 1) HOf1.out ?_
  simp only [Act.put, List.setIfInBounds_toArray, List.set_cons_zero, List.set_cons_succ]
  refine qb_eq rfl (.tmp 21) (.tmp 22) rfl 1 1 rfl rfl true (eqN_same _) ?_
  simp only [Act.put, List.setIfInBounds_toArray, List.set_cons_zero, List.set_cons_succ]
  refine qb_move rfl (.tmp 23) rfl (.bool true) rfl ?_
  simp only [Act.put, List.setIfInBounds_toArray, List.set_cons_zero, List.set_cons_succ]
  refine qb_call rfl 17 [.const (.int .u64 2)] #[24] rfl [.int .u64 2] rfl (CF14 _) (vN 2) HOf2.out ?_
  simp only [Act.put, List.setIfInBounds_toArray, List.set_cons_zero, List.set_cons_succ]
  refine qb_call rfl 17 [.const (.int .u64 2)] #[24] rfl [.int .u64 2] rfl (CF14 _) (vN 2) HOf2.out ?_
  simp only [Act.put, List.setIfInBounds_toArray, List.set_cons_zero, List.set_cons_succ]
  refine qb_call rfl 29 [.tmp 26] #[23] rfl [vN 2] rfl (CF15 _) (vN v) HInv.out ?_
  simp only [Act.put, List.setIfInBounds_toArray, List.set_cons_zero, List.set_cons_succ]
  refine qb_call rfl 25 [.tmp 25, .tmp 27] #[23, 23] rfl [vN 2, vN v] rfl (CF28 _) (vN 1) HMul.out ?_
  simp only [Act.put, List.setIfInBounds_toArray, List.set_cons_zero, List.set_cons_succ]
  refine qb_call rfl 17 [.const (.int .u64 1)] #[24] rfl [.int .u64 1] rfl (CF14 _) (vN 1) HOf1.out ?_
  simp only [Act.put, List.setIfInBounds_toArray, List.set_cons_zero, List.set_cons_succ]
  refine qb_eq rfl (.tmp 28) (.tmp 29) rfl 1 1 rfl rfl true (eqN_same _) ?_
  simp only [Act.put, List.setIfInBounds_toArray, List.set_cons_zero, List.set_cons_succ]
  refine qb_pick rfl (.tmp 24) (.tmp 30) (.const (.bool false)) rfl true rfl (.bool true) rfl ?_
  simp only [Act.put, List.setIfInBounds_toArray, List.set_cons_zero, List.set_cons_succ]
  refine qb_move rfl (.tmp 31) rfl (.bool true) rfl ?_
  simp only [Act.put, List.setIfInBounds_toArray, List.set_cons_zero, List.set_cons_succ]
  refine qb_zero rfl rfl ?_
  simp only [Act.put, List.setIfInBounds_toArray, List.set_cons_zero, List.set_cons_succ]
  refine qb_call rfl 23 [.tmp 33] #[23] rfl [vN 0] rfl (CF13 _) (vN 0) HNeg.out ?_
  simp only [Act.put, List.setIfInBounds_toArray, List.set_cons_zero, List.set_cons_succ]
  refine qb_zero rfl rfl ?_
  simp only [Act.put, List.setIfInBounds_toArray, List.set_cons_zero, List.set_cons_succ]
  refine qb_eq rfl (.tmp 34) (.tmp 35) rfl 0 0 rfl rfl true (eqN_same _) ?_
  simp only [Act.put, List.setIfInBounds_toArray, List.set_cons_zero, List.set_cons_succ]
  refine qb_pick rfl (.tmp 32) (.tmp 36) (.const (.bool false)) rfl true rfl (.bool true) rfl ?_
  simp only [Act.put, List.setIfInBounds_toArray, List.set_cons_zero, List.set_cons_succ]
  refine qb_move rfl (.tmp 37) rfl (.bool true) rfl ?_
  simp only [Act.put, List.setIfInBounds_toArray, List.set_cons_zero, List.set_cons_succ]
  refine qb_move rfl (.tmp 3) rfl (.bool true) rfl ?_
  simp only [Act.put, List.setIfInBounds_toArray, List.set_cons_zero, List.set_cons_succ]
  refine qb_pick rfl (.tmp 38) (.tmp 39) (.const (.bool false)) rfl true rfl (.bool true) rfl ?_
  simp only [Act.put, List.setIfInBounds_toArray, List.set_cons_zero, List.set_cons_succ]
  refine qb_move rfl (.tmp 40) rfl (.bool true) rfl ?_
  simp only [Act.put, List.setIfInBounds_toArray, List.set_cons_zero, List.set_cons_succ]
  refine qb_load rfl (.tmp 2) rfl (g2) 2 rfl R_10.out ?_
  simp only [Act.put, List.setIfInBounds_toArray, List.set_cons_zero, List.set_cons_succ]
  refine qb_call rfl 17 [.const (.int .u64 2)] #[24] rfl [.int .u64 2] rfl (CF14 _) (vN 2) HOf2.out ?_
  simp only [Act.put, List.setIfInBounds_toArray, List.set_cons_zero, List.set_cons_succ]
  refine qb_eq rfl (.tmp 42) (.tmp 43) rfl 2 2 rfl rfl true (eqN_same _) ?_
  simp only [Act.put, List.setIfInBounds_toArray, List.set_cons_zero, List.set_cons_succ]
  refine qb_pick rfl (.tmp 41) (.tmp 44) (.const (.bool false)) rfl true rfl (.bool true) rfl ?_
  simp only [Act.put, List.setIfInBounds_toArray, List.set_cons_zero, List.set_cons_succ]
  refine qb_move rfl (.tmp 45) rfl (.bool true) rfl ?_
  simp only [Act.put, List.setIfInBounds_toArray, List.set_cons_zero, List.set_cons_succ]
  refine qb_move rfl (.tmp 5) rfl (.bool false) rfl ?_
  simp only [Act.put, List.setIfInBounds_toArray, List.set_cons_zero, List.set_cons_succ]
  refine qb_not rfl 4 (.tmp 47) rfl false rfl ?_
  rw [show (!false) = true from rfl]
  simp only [Act.put, List.setIfInBounds_toArray, List.set_cons_zero, List.set_cons_succ]
  refine qb_pick rfl (.tmp 46) (.tmp 48) (.const (.bool false)) rfl true rfl (.bool true) rfl ?_
  simp only [Act.put, List.setIfInBounds_toArray, List.set_cons_zero, List.set_cons_succ]
  refine qb_assign rfl (.tmp 49) rfl (.bool true) rfl ?_
  simp only [Act.put, List.setIfInBounds_toArray, List.set_cons_zero, List.set_cons_succ]
  refine wpQuiet_nil ?_
  intro W hb
  have HBW : Hid (Below w.heap.size w W) := HB_10.out.trans (hb.mono HB_10.out.size)
  clear hb HB_10 L_10 R_10 Q_10
  go_wp2
  go_ret
  exact ⟨rfl, HBW.out⟩

theorem k_ex : ∃ k, PP = 8 * k + 5 := ⟨7237005577332262213973186563042994240829374041602535252466099000494570602493, by unfold PP; omega⟩
theorem q_ex : ∃ q, PP = q + 2 := ⟨57896044618658097711785492504343953926634992332820282019728792003956564819947, by unfold PP; omega⟩
/-- What is not 0 times its inverse is 1. -/
theorem inv_mul (q : Nat) (hq : PP = q + 2) (a : Nat) (ha : a % PP ≠ 0) : a * (a ^ q % PP) % PP = 1 := by
  have h := fermat1 prP a (fun hd => ha (Nat.mod_eq_zero_of_dvd hd))
  rw [show PP - 1 = q + 1 from by omega, Nat.pow_succ, Nat.mul_comm] at h
  rw [Nat.mul_mod_mod]
  exact h
theorem lives_any (w : World) : Calls Try.prog 10 #[] w (Gives (.bool true) w) := by
  obtain ⟨k, hk⟩ := k_ex
  obtain ⟨q, hq⟩ := q_ex
  have two : 2 % PP ≠ 0 := by unfold PP; omega
  have one : ¬ PP ∣ 1 := fun h => by have := Nat.le_of_dvd (by omega) h; unfold PP at this; omega
  have hi := inv_mul q hq 2 two
  have hI := Inv_any q hq 2 (by unfold TT; omega)
  have hlt : 2 ^ q % PP < TT := modT _
  generalize 2 ^ q % PP = v at *
  have hM : ∀ w, Calls Try.prog 25 #[vN 2, vN v] w (Gives (vN 1) w) := fun w => by
    have h := Mul_any 2 v (by unfold TT; omega) hlt w
    rw [hi] at h
    exact h
  have hR4 : ∀ w, Calls Try.prog 11 #[vN 4] w (Gives (.tuple #[vN 2, .bool true]) w) := fun w => by
    have h := Root_any k hk 4 (by unfold TT; omega) w
    have e := rt_square prP hk (htwo k hk) 2 (fun hd => two (Nat.mod_eq_zero_of_dvd hd))
    rw [show 2 * 2 % PP = 4 from by unfold PP; omega, show 2 % PP = 2 from by unfold PP; omega, show evn PP 2 = 2 from rfl] at e
    rw [e] at h
    exact h
  have hR2 : ∀ w, Calls Try.prog 11 #[vN 2] w (Gives (.tuple #[vN 0, .bool false]) w) := fun w => by
    have h := Root_any k hk 2 (by unfold TT; omega) w
    have e := rt_double prP hk (htwo k hk) 1 one
    rw [show 2 * (1 * 1 % PP) % PP = 2 from by unfold PP; omega] at e
    rw [e] at h
    exact h
  have hS : ∀ w, Calls Try.prog 21 #[vN 0, vN 1] w (Gives (vN (PP - 1)) w) := fun w => by
    have h := Sub_any 0 1 (by unfold TT; omega) (by unfold TT; omega) w
    rw [show (0 + (PP - 1 % PP)) % PP = PP - 1 from by unfold PP; omega] at h
    exact h
  have hA : ∀ w, Calls Try.prog 19 #[vN (PP - 1), vN 2] w (Gives (vN 1) w) := fun w => by
    have h := Add_any (PP - 1) 2 (by unfold PP TT; omega) (by unfold TT; omega) w
    rw [show (PP - 1 + 2) % PP = 1 from by unfold PP; omega] at h
    exact h
  have hN : ∀ w, Calls Try.prog 23 #[vN 0] w (Gives (vN 0) w) := fun w => by
    have h := Neg_any 0 (by unfold TT; omega) w
    rw [show (PP - 0 % PP) % PP = 0 from by unfold PP; omega] at h
    exact h
  generalize PP - 1 = l at hS hA
  exact lives_core l v w (Lib.hid fun w => Of_any 0 (by omega) w) (Lib.hid fun w => Of_any 1 (by omega) w) (Lib.hid fun w => Of_any 2 (by omega) w) (Lib.hid fun w => Of_any 4 (by omega) w) (Lib.hid hS) (Lib.hid hR4) (Lib.hid hR2) (Lib.hid hA) (Lib.hid hI) (Lib.hid hM) (Lib.hid hN)
end Go.Proofs.Ytgdimnbdnepbgaa
/- What comes in: arrays of bytes, as numbers. No statement is proved here. -/
namespace Go.Proofs.Ytgdimnbdnepbgaa
open Go.RowKit
set_option linter.unusedVariables false
set_option linter.unusedSimpArgs false
set_option maxRecDepth 40000

section
variable {H : Type} {enc : TypeId × Value → H} {P : Program} {w : World} {base : Nat} {spare : Nat → Bool} {held : Bool}
theorem okWide_array {r : Reach} {b0 n e : Nat} {t : TypeId} {v : Value} (ht : P.underlying t = some (.array n e)) (h : Value.okWide P w r b0 t v) : ∃ cs, v = .agg cs ∧ cs.size = P.cellsOf t := by
  simp only [Value.okWide, ht] at h
  obtain ⟨cs, h1, h2, _⟩ := h
  exact ⟨cs, h1, h2⟩
/-- An array of bytes that came in. -/
theorem open_arr {r : Reach} {b0 n e : Nat} {t : TypeId} {v : Value} {d : DataW H} {p : List MemPlace} (ht : P.underlying t = some (.array n e)) (he : P.underlying e = some (.int .u8)) (hce : P.cellsOf e = 1) (hct : P.cellsOf t = n)
    (hv : Value.okWide P w r b0 t v) (h : DataW.Trod enc P w base spare held t v d p) : ∃ l : List UInt8, l.length = n ∧ v = .agg (bcs l).toArray := by
  obtain ⟨cs, rfl, hsz⟩ := okWide_array ht hv
  obtain ⟨fuel, hf⟩ := h
  obtain ⟨xs, m, _, _, hl, hxl, hel⟩ := DataW.trod_array ht hf
  have hcs : ∀ i (hi : i < cs.size), ∃ b : UInt8, cs[i] = bc b := by
    intro i hi
    have h1 := hel i (by omega)
    have hd : ((Value.agg cs).cells.toList.drop (i * P.cellsOf e)).take (P.cellsOf e) = [cs[i]] := by
      rw [hce, Nat.mul_one]
      simp only [Value.cells]
      rw [List.drop_eq_getElem_cons (by simpa using hi)]
      simp
    rw [hd, List.getElem?_eq_getElem (by omega)] at h1
    obtain ⟨z, e0, _, wz⟩ := DataW.trod_int he h1
    simp only [List.cons.injEq, and_true] at e0
    have hb := bounds_u8 wz
    refine ⟨UInt8.ofNat z.toNat, ?_⟩
    rw [e0]
    unfold bc
    rw [UInt8.toNat_ofNat']
    congr 1
    omega
  refine ⟨cs.toList.map (fun v => match v with | .int _ z => UInt8.ofNat z.toNat | _ => 0), by simp; omega, ?_⟩
  congr 1
  apply Array.ext
  · simp [bcs]
  · intro i h1 h2
    obtain ⟨b, hb⟩ := hcs i h1
    simp only [bcs, List.map_map, List.getElem_toArray, List.getElem_map, Function.comp_def, Array.getElem_toList, hb]
    simp [bc]
end
/-- 32 bytes are those of a number. -/
theorem bytes_num (l : List UInt8) (h : l.length = 32) : ∃ n, n < TT ∧ Value.agg (bcs l).toArray = vN n := ⟨nv l, nv_lt l, by unfold vN; rw [enc_nv l h]⟩
end Go.Proofs.Ytgdimnbdnepbgaa
/- Small integers in a walk. No statement is proved here. -/
namespace Go.Proofs.Ytgdimnbdnepbgaa
open Go.RowKit
set_option linter.unusedVariables false
set_option maxRecDepth 40000
set_option linter.unusedSimpArgs false

theorem wrap64_small (a : Nat) (h : a < 18446744073709551616) : IntKind.u64.wrap (a : Int) = (a : Int) := by rw [IntKind.wrap_u64]; omega
theorem exec_conv {o : Oper} {a : Act} {w : World} (x : Operand) (ho : o.op = .convert 117 24 x) (n : Nat) (hn : n < 18446744073709551616) (hx : a.eval x = .int .u32 n) : (execOp a.eval o).run Try.prog w = .ok (.value (.int .u64 n)) w := by
  have h : (convert 117 24 (.int .u32 n)).run Try.prog w = .ok (.int .u64 (IntKind.u64.wrap n)) w := by kernel_rfl
  rw [wrap64_small n hn] at h
  unfold execOp
  simp only [ho, hx, Sem.run_bind, Sem.run_pure, Result.andThen_ok, h]
theorem exec_bin {P : Program} {o : Oper} {a : Act} {w : World} (op : BinOp) (t u : TypeId) (x y : Operand) (ho : o.op = .binOp op t x y u) (p q r : Value) (hx : a.eval x = p) (hy : a.eval y = q) (hg : (eqGuard op t x y p q).run P w = .ok () w) (hr : (binOp op t p q).run P w = .ok r w) : (execOp a.eval o).run P w = .ok (.value r) w := by
  unfold execOp
  simp only [ho, hx, hy, Sem.run_bind, Sem.run_pure, Result.andThen_ok, hg, hr]
theorem run_add64 {P : Program} (m n : Nat) (h : m + n < 18446744073709551616) (w : World) : (binOp .add 24 (.int .u64 m) (.int .u64 n)).run P w = .ok (.int .u64 ((m + n : Nat) : Int)) w := by
  have e : (binOp .add 24 (.int .u64 m) (.int .u64 n)).run P w = .ok (.int .u64 (IntKind.u64.wrap ((m : Int) + n))) w := rfl
  rw [e]
  congr 2
  rw [IntKind.wrap_u64]; omega
theorem run_mul64 {P : Program} (m n : Nat) (h : m * n < 18446744073709551616) (w : World) : (binOp .mul 24 (.int .u64 m) (.int .u64 n)).run P w = .ok (.int .u64 ((m * n : Nat) : Int)) w := by
  have e : (binOp .mul 24 (.int .u64 m) (.int .u64 n)).run P w = .ok (.int .u64 (IntKind.u64.wrap ((m : Int) * n))) w := rfl
  rw [e]
  congr 2
  rw [show (m : Int) * n = ((m * n : Nat) : Int) from by simp]
  exact wrap64_small _ h
theorem run_sub32 {P : Program} (m n : Nat) (h : n ≤ m) (hm : m < 4294967296) (w : World) : (binOp .sub 117 (.int .u32 m) (.int .u32 n)).run P w = .ok (.int .u32 ((m - n : Nat) : Int)) w := by
  have e : (binOp .sub 117 (.int .u32 m) (.int .u32 n)).run P w = .ok (.int .u32 (IntKind.u32.wrap ((m : Int) - n))) w := rfl
  rw [e]
  congr 2
  rw [IntKind.wrap_u32]; omega
theorem run_rem32 {P : Program} (m : Nat) (w : World) : (binOp .rem 117 (.int .u32 m) (.int .u32 2)).run P w = .ok (.int .u32 ((m % 2 : Nat) : Int)) w := by
  have h : Int.tmod (m : Int) 2 = ((m % 2 : Nat) : Int) := by rw [Int.tmod_eq_emod_of_nonneg (by omega)]; omega
  simp [binOp, Op.intDiv, h]
theorem run_geq32 {P : Program} (m n : Nat) (w : World) : (binOp .geq 117 (.int .u32 m) (.int .u32 n)).run P w = .ok (.bool (decide (n ≤ m))) w := by
  have e : (binOp .geq 117 (.int .u32 m) (.int .u32 n)).run P w = .ok (.bool (decide ((n : Int) ≤ m))) w := rfl
  rw [e]
  congr 2
  simp
theorem run_lss32 {P : Program} (m n : Nat) (w : World) : (binOp .lss 117 (.int .u32 m) (.int .u32 n)).run P w = .ok (.bool (decide (m < n))) w := by
  have e : (binOp .lss 117 (.int .u32 m) (.int .u32 n)).run P w = .ok (.bool (decide ((m : Int) < n))) w := rfl
  rw [e]
  congr 2
  simp
theorem run_eql32 {P : Program} (m n : Nat) (w : World) : (binOp .eql 117 (.int .u32 m) (.int .u32 n)).run P w = .ok (.bool (decide (m = n))) w := by
  have e : (binOp .eql 117 (.int .u32 m) (.int .u32 n)).run P w = .ok (.bool ((m : Int) == n)) w := rfl
  rw [e]
  congr 2
  rw [Bool.eq_iff_iff]
  simp only [beq_iff_eq, decide_eq_true_eq]
  omega
section
variable {ops : Array Oper} {rest : List Oper} {o : Oper} {a : Act} {w0 : World} {Q : Act → Prop}
theorem qb_conv (hw : Region.wanted o (yielded ops a.tmps) = true) (x : Operand) (ho : o.op = .convert 117 24 x) (n : Nat) (hn : n < 18446744073709551616) (hx : a.eval x = .int .u32 n) (h : wpQuiet Try.prog ops (CB w0) Q rest (a.put o.dst (.int .u64 n))) : wpQuiet Try.prog ops (CB w0) Q (o :: rest) a :=
  qb_val hw _ (fun w _ => exec_conv x ho n hn hx) h
theorem qb_bin {P : Program} (hw : Region.wanted o (yielded ops a.tmps) = true) (op : BinOp) (t u : TypeId) (x y : Operand) (ho : o.op = .binOp op t x y u) (p q r : Value) (hx : a.eval x = p) (hy : a.eval y = q) (hg : ∀ w, (eqGuard op t x y p q).run P w = .ok () w) (hr : ∀ w, (binOp op t p q).run P w = .ok r w) (h : wpQuiet P ops (CB w0) Q rest (a.put o.dst r)) : wpQuiet P ops (CB w0) Q (o :: rest) a :=
  qb_val hw _ (fun w _ => exec_bin op t u x y ho p q r hx hy (hg w) (hr w)) h
end
end Go.Proofs.Ytgdimnbdnepbgaa
/- The steps of quiet regions, shut in a structure, so that nothing looks into what is left. No statement is proved here. -/
namespace Go.Proofs.Ytgdimnbdnepbgaa
open Go.RowKit
set_option linter.unusedVariables false
set_option maxRecDepth 40000
set_option linter.unusedSimpArgs false

structure WQ (P : Program) (ops : Array Oper) (C : World → Prop) (Q : Act → Prop) (l : List Oper) (a : Act) : Prop where
  out : wpQuiet P ops C Q l a
section
variable {P : Program} {ops : Array Oper} {rest : List Oper} {o : Oper} {a : Act} {w0 : World} {Q : Act → Prop}
theorem wq_nil (h : Q a) : WQ P ops (CB w0) Q [] a := ⟨wpQuiet_nil h⟩
theorem wq_skip (hw : Region.wanted o (yielded ops a.tmps) = false) (h : WQ P ops (CB w0) Q rest (a.put o.dst undef)) : WQ P ops (CB w0) Q (o :: rest) a := ⟨qb_skip hw h.out⟩
theorem wq_call (hw : Region.wanted o (yielded ops a.tmps) = true) (f : FuncId) (xs : List Operand) (ts : Array TypeId) (ho : o.op = .call { callee := .value (.func f), args := xs.toArray, argTypes := ts }) (args : List Value) (hx : xs.map a.eval = args) (hcf : ∀ w, (callFunc f args.toArray).run P w = .ok (.enter f args.toArray) w)
    (v : Value) (hc : ∀ w, Calls P f args.toArray w (Gives v w)) (h : WQ P ops (CB w0) Q rest (a.put o.dst v)) : WQ P ops (CB w0) Q (o :: rest) a := ⟨qb_call hw f xs ts ho args hx hcf v hc h.out⟩
theorem wq_move (hw : Region.wanted o (yielded ops a.tmps) = true) (x : Operand) (ho : o.op = .move x) (v : Value) (hx : a.eval x = v) (h : WQ P ops (CB w0) Q rest (a.put o.dst v)) : WQ P ops (CB w0) Q (o :: rest) a := ⟨qb_move hw x ho v hx h.out⟩
theorem wq_assign (hw : Region.wanted o (yielded ops a.tmps) = true) (x : Operand) (ho : o.op = .assign x) (v : Value) (hx : a.eval x = v) (h : WQ P ops (CB w0) Q rest (a.put o.dst v)) : WQ P ops (CB w0) Q (o :: rest) a := ⟨qb_assign hw x ho v hx h.out⟩
theorem wq_pick (hw : Region.wanted o (yielded ops a.tmps) = true) (c x y : Operand) (ho : o.op = .pick c x y) (b : Bool) (hc : a.eval c = .bool b) (v : Value) (hx : (if b then a.eval x else a.eval y) = v) (h : WQ P ops (CB w0) Q rest (a.put o.dst v)) : WQ P ops (CB w0) Q (o :: rest) a := ⟨qb_pick hw c x y ho b hc v hx h.out⟩
theorem wq_not (hw : Region.wanted o (yielded ops a.tmps) = true) (t : TypeId) (x : Operand) (ho : o.op = .unOp .not t x) (b : Bool) (hx : a.eval x = .bool b) (h : WQ P ops (CB w0) Q rest (a.put o.dst (.bool (!b)))) : WQ P ops (CB w0) Q (o :: rest) a := ⟨qb_not hw t x ho b hx h.out⟩
theorem wq_bin (hw : Region.wanted o (yielded ops a.tmps) = true) (op : BinOp) (t u : TypeId) (x y : Operand) (ho : o.op = .binOp op t x y u) (p q r : Value) (hx : a.eval x = p) (hy : a.eval y = q) (hg : ∀ w, (eqGuard op t x y p q).run P w = .ok () w) (hr : ∀ w, (binOp op t p q).run P w = .ok r w) (h : WQ P ops (CB w0) Q rest (a.put o.dst r)) : WQ P ops (CB w0) Q (o :: rest) a := ⟨qb_bin hw op t u x y ho p q r hx hy hg hr h.out⟩
end
section
variable {ops : Array Oper} {rest : List Oper} {o : Oper} {a : Act} {w0 : World} {Q : Act → Prop}
theorem wq_load (hw : Region.wanted o (yielded ops a.tmps) = true) (x : Operand) (ho : o.op = .load 23 x) (g n : Nat) (hx : a.eval x = .pointer (some ⟨g, 0, none⟩)) (hr : NAt w0 g n) (h : WQ Try.prog ops (CB w0) Q rest (a.put o.dst (vN n))) : WQ Try.prog ops (CB w0) Q (o :: rest) a := ⟨qb_load hw x ho g n hx hr h.out⟩
theorem wq_eq (hw : Region.wanted o (yielded ops a.tmps) = true) (x y : Operand) (ho : o.op = .binOp .eql 23 x y 23) (m n : Nat) (hx : a.eval x = vN m) (hy : a.eval y = vN n) (b : Bool) (hb : ∀ w, (Op.equalIn 10000 23 (vN m) (vN n)).run Try.prog w = .ok b w) (h : WQ Try.prog ops (CB w0) Q rest (a.put o.dst (.bool b))) : WQ Try.prog ops (CB w0) Q (o :: rest) a := ⟨qb_eq hw x y ho m n hx hy b hb h.out⟩
theorem wq_neq (hw : Region.wanted o (yielded ops a.tmps) = true) (x y : Operand) (ho : o.op = .binOp .neq 23 x y 23) (m n : Nat) (hx : a.eval x = vN m) (hy : a.eval y = vN n) (b b' : Bool) (hb : ∀ w, (Op.equalIn 10000 23 (vN m) (vN n)).run Try.prog w = .ok b w) (hb' : (!b) = b') (h : WQ Try.prog ops (CB w0) Q rest (a.put o.dst (.bool b'))) : WQ Try.prog ops (CB w0) Q (o :: rest) a := ⟨qb_neq hw x y ho m n hx hy b b' hb hb' h.out⟩
theorem wq_zero (hw : Region.wanted o (yielded ops a.tmps) = true) (ho : o.op = .build 23 #[]) (h : WQ Try.prog ops (CB w0) Q rest (a.put o.dst (vN 0))) : WQ Try.prog ops (CB w0) Q (o :: rest) a := ⟨qb_zero hw ho h.out⟩
theorem wq_eqb {P : Program} (hw : Region.wanted o (yielded ops a.tmps) = true) (x y : Operand) (ho : o.op = .binOp .eql 4 x y 4) (m n b : Bool) (hx : a.eval x = .bool m) (hy : a.eval y = .bool n) (hb : (m == n) = b) (h : WQ Try.prog ops (CB w0) Q rest (a.put o.dst (.bool b))) : WQ Try.prog ops (CB w0) Q (o :: rest) a := ⟨qb_eqb (P := P) hw x y ho m n b hx hy hb h.out⟩
theorem wq_conv (hw : Region.wanted o (yielded ops a.tmps) = true) (x : Operand) (ho : o.op = .convert 117 24 x) (n : Nat) (hn : n < 18446744073709551616) (hx : a.eval x = .int .u32 n) (h : WQ Try.prog ops (CB w0) Q rest (a.put o.dst (.int .u64 n))) : WQ Try.prog ops (CB w0) Q (o :: rest) a := ⟨qb_conv hw x ho n hn hx h.out⟩
theorem region_wq {id : Nat} {Q : Exit → Act → World → Prop} {a : Act} {w : World} {l : List Oper} (hm : Try.prog.follows .mixedOrders = true) (hB : Region.lexB .any l.toArray = true)
    (h : WQ Try.prog l.toArray (CB w) (fun a' => ∀ w', Below w.heap.size w w' → Q .normal a' w') l a) : (Code.region id l.toArray true).wp Try.prog Q a w := region_qb (P := Try.prog) hm hB h.out
theorem exec_extract {P : Program} {o : Oper} {a : Act} {w : World} (x : Operand) (i : Nat) (ho : o.op = .extract x i) (vs : Array Value) (hx : a.eval x = .tuple vs) (v : Value) (hv : vs[i]? = some v) : (execOp a.eval o).run P w = .ok (.value v) w := by
  unfold execOp
  simp only [ho, hx]
  simp [Instr.extract, hv]
/-- Two Bools, unlike. -/
theorem run_neqb {P : Program} (m n : Bool) (w : World) : (binOp .neq 4 (.bool m) (.bool n)).run Try.prog w = .ok (.bool (!(m == n))) w := by
  cases m <;> cases n <;> kernel_rfl
end
end Go.Proofs.Ytgdimnbdnepbgaa
/- The functions have bodies. No statement is proved here. -/
namespace Go.Proofs.Ytgdimnbdnepbgaa
open Go.RowKit
set_option linter.unusedVariables false
set_option maxRecDepth 40000

theorem CG10 (args : Array Value) (w : World) : (callFunc 10 args).run Try.prog w = .ok (.enter 10 args) w := callEnter Try.func10 (by kernel_rfl) rfl args w
theorem CG11 (args : Array Value) (w : World) : (callFunc 11 args).run Try.prog w = .ok (.enter 11 args) w := callEnter Try.func11 (by kernel_rfl) rfl args w
theorem CG12 (args : Array Value) (w : World) : (callFunc 12 args).run Try.prog w = .ok (.enter 12 args) w := callEnter Try.func12 (by kernel_rfl) rfl args w
theorem CG13 (args : Array Value) (w : World) : (callFunc 13 args).run Try.prog w = .ok (.enter 13 args) w := callEnter Try.func13 (by kernel_rfl) rfl args w
theorem CG14 (args : Array Value) (w : World) : (callFunc 14 args).run Try.prog w = .ok (.enter 14 args) w := callEnter Try.func14 (by kernel_rfl) rfl args w
theorem CG15 (args : Array Value) (w : World) : (callFunc 15 args).run Try.prog w = .ok (.enter 15 args) w := callEnter Try.func15 (by kernel_rfl) rfl args w
theorem CG16 (args : Array Value) (w : World) : (callFunc 16 args).run Try.prog w = .ok (.enter 16 args) w := callEnter Try.func16 (by kernel_rfl) rfl args w
theorem CG17 (args : Array Value) (w : World) : (callFunc 17 args).run Try.prog w = .ok (.enter 17 args) w := callEnter Try.func17 (by kernel_rfl) rfl args w
theorem CG18 (args : Array Value) (w : World) : (callFunc 18 args).run Try.prog w = .ok (.enter 18 args) w := callEnter Try.func18 (by kernel_rfl) rfl args w
theorem CG19 (args : Array Value) (w : World) : (callFunc 19 args).run Try.prog w = .ok (.enter 19 args) w := callEnter Try.func19 (by kernel_rfl) rfl args w
theorem CG20 (args : Array Value) (w : World) : (callFunc 20 args).run Try.prog w = .ok (.enter 20 args) w := callEnter Try.func20 (by kernel_rfl) rfl args w
theorem CG21 (args : Array Value) (w : World) : (callFunc 21 args).run Try.prog w = .ok (.enter 21 args) w := callEnter Try.func21 (by kernel_rfl) rfl args w
theorem CG22 (args : Array Value) (w : World) : (callFunc 22 args).run Try.prog w = .ok (.enter 22 args) w := callEnter Try.func22 (by kernel_rfl) rfl args w
theorem CG23 (args : Array Value) (w : World) : (callFunc 23 args).run Try.prog w = .ok (.enter 23 args) w := callEnter Try.func23 (by kernel_rfl) rfl args w
theorem CG24 (args : Array Value) (w : World) : (callFunc 24 args).run Try.prog w = .ok (.enter 24 args) w := callEnter Try.func24 (by kernel_rfl) rfl args w
theorem CG25 (args : Array Value) (w : World) : (callFunc 25 args).run Try.prog w = .ok (.enter 25 args) w := callEnter Try.func25 (by kernel_rfl) rfl args w
theorem CG26 (args : Array Value) (w : World) : (callFunc 26 args).run Try.prog w = .ok (.enter 26 args) w := callEnter Try.func26 (by kernel_rfl) rfl args w
theorem CG27 (args : Array Value) (w : World) : (callFunc 27 args).run Try.prog w = .ok (.enter 27 args) w := callEnter Try.func27 (by kernel_rfl) rfl args w
theorem CG28 (args : Array Value) (w : World) : (callFunc 28 args).run Try.prog w = .ok (.enter 28 args) w := callEnter Try.func28 (by kernel_rfl) rfl args w
theorem CG29 (args : Array Value) (w : World) : (callFunc 29 args).run Try.prog w = .ok (.enter 29 args) w := callEnter Try.func29 (by kernel_rfl) rfl args w
theorem CG30 (args : Array Value) (w : World) : (callFunc 30 args).run Try.prog w = .ok (.enter 30 args) w := callEnter Try.func30 (by kernel_rfl) rfl args w
theorem CG31 (args : Array Value) (w : World) : (callFunc 31 args).run Try.prog w = .ok (.enter 31 args) w := callEnter Try.func31 (by kernel_rfl) rfl args w
theorem CG32 (args : Array Value) (w : World) : (callFunc 32 args).run Try.prog w = .ok (.enter 32 args) w := callEnter Try.func32 (by kernel_rfl) rfl args w
theorem CG33 (args : Array Value) (w : World) : (callFunc 33 args).run Try.prog w = .ok (.enter 33 args) w := callEnter Try.func33 (by kernel_rfl) rfl args w
theorem CG34 (args : Array Value) (w : World) : (callFunc 34 args).run Try.prog w = .ok (.enter 34 args) w := callEnter Try.func34 (by kernel_rfl) rfl args w
theorem CG35 (args : Array Value) (w : World) : (callFunc 35 args).run Try.prog w = .ok (.enter 35 args) w := callEnter Try.func35 (by kernel_rfl) rfl args w
theorem CG36 (args : Array Value) (w : World) : (callFunc 36 args).run Try.prog w = .ok (.enter 36 args) w := callEnter Try.func36 (by kernel_rfl) rfl args w
theorem CG37 (args : Array Value) (w : World) : (callFunc 37 args).run Try.prog w = .ok (.enter 37 args) w := callEnter Try.func37 (by kernel_rfl) rfl args w
theorem CG38 (args : Array Value) (w : World) : (callFunc 38 args).run Try.prog w = .ok (.enter 38 args) w := callEnter Try.func38 (by kernel_rfl) rfl args w
theorem CG39 (args : Array Value) (w : World) : (callFunc 39 args).run Try.prog w = .ok (.enter 39 args) w := callEnter Try.func39 (by kernel_rfl) rfl args w
theorem CG40 (args : Array Value) (w : World) : (callFunc 40 args).run Try.prog w = .ok (.enter 40 args) w := callEnter Try.func40 (by kernel_rfl) rfl args w
theorem CG41 (args : Array Value) (w : World) : (callFunc 41 args).run Try.prog w = .ok (.enter 41 args) w := callEnter Try.func41 (by kernel_rfl) rfl args w
theorem CG42 (args : Array Value) (w : World) : (callFunc 42 args).run Try.prog w = .ok (.enter 42 args) w := callEnter Try.func42 (by kernel_rfl) rfl args w
theorem CG43 (args : Array Value) (w : World) : (callFunc 43 args).run Try.prog w = .ok (.enter 43 args) w := callEnter Try.func43 (by kernel_rfl) rfl args w
theorem CG44 (args : Array Value) (w : World) : (callFunc 44 args).run Try.prog w = .ok (.enter 44 args) w := callEnter Try.func44 (by kernel_rfl) rfl args w
theorem CG45 (args : Array Value) (w : World) : (callFunc 45 args).run Try.prog w = .ok (.enter 45 args) w := callEnter Try.func45 (by kernel_rfl) rfl args w
theorem CG46 (args : Array Value) (w : World) : (callFunc 46 args).run Try.prog w = .ok (.enter 46 args) w := callEnter Try.func46 (by kernel_rfl) rfl args w
theorem CG47 (args : Array Value) (w : World) : (callFunc 47 args).run Try.prog w = .ok (.enter 47 args) w := callEnter Try.func47 (by kernel_rfl) rfl args w
theorem CG48 (args : Array Value) (w : World) : (callFunc 48 args).run Try.prog w = .ok (.enter 48 args) w := callEnter Try.func48 (by kernel_rfl) rfl args w
theorem CG49 (args : Array Value) (w : World) : (callFunc 49 args).run Try.prog w = .ok (.enter 49 args) w := callEnter Try.func49 (by kernel_rfl) rfl args w
theorem CG50 (args : Array Value) (w : World) : (callFunc 50 args).run Try.prog w = .ok (.enter 50 args) w := callEnter Try.func50 (by kernel_rfl) rfl args w
theorem CG51 (args : Array Value) (w : World) : (callFunc 51 args).run Try.prog w = .ok (.enter 51 args) w := callEnter Try.func51 (by kernel_rfl) rfl args w
theorem CG52 (args : Array Value) (w : World) : (callFunc 52 args).run Try.prog w = .ok (.enter 52 args) w := callEnter Try.func52 (by kernel_rfl) rfl args w
theorem CG53 (args : Array Value) (w : World) : (callFunc 53 args).run Try.prog w = .ok (.enter 53 args) w := callEnter Try.func53 (by kernel_rfl) rfl args w
theorem CG54 (args : Array Value) (w : World) : (callFunc 54 args).run Try.prog w = .ok (.enter 54 args) w := callEnter Try.func54 (by kernel_rfl) rfl args w
theorem CG55 (args : Array Value) (w : World) : (callFunc 55 args).run Try.prog w = .ok (.enter 55 args) w := callEnter Try.func55 (by kernel_rfl) rfl args w
theorem CG56 (args : Array Value) (w : World) : (callFunc 56 args).run Try.prog w = .ok (.enter 56 args) w := callEnter Try.func56 (by kernel_rfl) rfl args w
theorem CG57 (args : Array Value) (w : World) : (callFunc 57 args).run Try.prog w = .ok (.enter 57 args) w := callEnter Try.func57 (by kernel_rfl) rfl args w
theorem CG58 (args : Array Value) (w : World) : (callFunc 58 args).run Try.prog w = .ok (.enter 58 args) w := callEnter Try.func58 (by kernel_rfl) rfl args w
theorem CG59 (args : Array Value) (w : World) : (callFunc 59 args).run Try.prog w = .ok (.enter 59 args) w := callEnter Try.func59 (by kernel_rfl) rfl args w
theorem CG60 (args : Array Value) (w : World) : (callFunc 60 args).run Try.prog w = .ok (.enter 60 args) w := callEnter Try.func60 (by kernel_rfl) rfl args w
theorem CG61 (args : Array Value) (w : World) : (callFunc 61 args).run Try.prog w = .ok (.enter 61 args) w := callEnter Try.func61 (by kernel_rfl) rfl args w
theorem CG62 (args : Array Value) (w : World) : (callFunc 62 args).run Try.prog w = .ok (.enter 62 args) w := callEnter Try.func62 (by kernel_rfl) rfl args w
theorem CG63 (args : Array Value) (w : World) : (callFunc 63 args).run Try.prog w = .ok (.enter 63 args) w := callEnter Try.func63 (by kernel_rfl) rfl args w
theorem CG64 (args : Array Value) (w : World) : (callFunc 64 args).run Try.prog w = .ok (.enter 64 args) w := callEnter Try.func64 (by kernel_rfl) rfl args w
theorem CG67 (args : Array Value) (w : World) : (callFunc 67 args).run Try.prog w = .ok (.enter 67 args) w := callEnter Try.func67 (by kernel_rfl) rfl args w
theorem CG68 (args : Array Value) (w : World) : (callFunc 68 args).run Try.prog w = .ok (.enter 68 args) w := callEnter Try.func68 (by kernel_rfl) rfl args w
theorem CG71 (args : Array Value) (w : World) : (callFunc 71 args).run Try.prog w = .ok (.enter 71 args) w := callEnter Try.func71 (by kernel_rfl) rfl args w
theorem CG73 (args : Array Value) (w : World) : (callFunc 73 args).run Try.prog w = .ok (.enter 73 args) w := callEnter Try.func73 (by kernel_rfl) rfl args w
theorem CG75 (args : Array Value) (w : World) : (callFunc 75 args).run Try.prog w = .ok (.enter 75 args) w := callEnter Try.func75 (by kernel_rfl) rfl args w
theorem CG77 (args : Array Value) (w : World) : (callFunc 77 args).run Try.prog w = .ok (.enter 77 args) w := callEnter Try.func77 (by kernel_rfl) rfl args w
theorem CG78 (args : Array Value) (w : World) : (callFunc 78 args).run Try.prog w = .ok (.enter 78 args) w := callEnter Try.func78 (by kernel_rfl) rfl args w
theorem CG79 (args : Array Value) (w : World) : (callFunc 79 args).run Try.prog w = .ok (.enter 79 args) w := callEnter Try.func79 (by kernel_rfl) rfl args w
theorem CG80 (args : Array Value) (w : World) : (callFunc 80 args).run Try.prog w = .ok (.enter 80 args) w := callEnter Try.func80 (by kernel_rfl) rfl args w
theorem CG81 (args : Array Value) (w : World) : (callFunc 81 args).run Try.prog w = .ok (.enter 81 args) w := callEnter Try.func81 (by kernel_rfl) rfl args w
theorem CG82 (args : Array Value) (w : World) : (callFunc 82 args).run Try.prog w = .ok (.enter 82 args) w := callEnter Try.func82 (by kernel_rfl) rfl args w
theorem CG83 (args : Array Value) (w : World) : (callFunc 83 args).run Try.prog w = .ok (.enter 83 args) w := callEnter Try.func83 (by kernel_rfl) rfl args w
theorem CG84 (args : Array Value) (w : World) : (callFunc 84 args).run Try.prog w = .ok (.enter 84 args) w := callEnter Try.func84 (by kernel_rfl) rfl args w
theorem CG85 (args : Array Value) (w : World) : (callFunc 85 args).run Try.prog w = .ok (.enter 85 args) w := callEnter Try.func85 (by kernel_rfl) rfl args w
theorem CG86 (args : Array Value) (w : World) : (callFunc 86 args).run Try.prog w = .ok (.enter 86 args) w := callEnter Try.func86 (by kernel_rfl) rfl args w
theorem CG87 (args : Array Value) (w : World) : (callFunc 87 args).run Try.prog w = .ok (.enter 87 args) w := callEnter Try.func87 (by kernel_rfl) rfl args w
theorem CG88 (args : Array Value) (w : World) : (callFunc 88 args).run Try.prog w = .ok (.enter 88 args) w := callEnter Try.func88 (by kernel_rfl) rfl args w
theorem CG89 (args : Array Value) (w : World) : (callFunc 89 args).run Try.prog w = .ok (.enter 89 args) w := callEnter Try.func89 (by kernel_rfl) rfl args w
theorem CG90 (args : Array Value) (w : World) : (callFunc 90 args).run Try.prog w = .ok (.enter 90 args) w := callEnter Try.func90 (by kernel_rfl) rfl args w
theorem CG91 (args : Array Value) (w : World) : (callFunc 91 args).run Try.prog w = .ok (.enter 91 args) w := callEnter Try.func91 (by kernel_rfl) rfl args w
theorem CG100 (args : Array Value) (w : World) : (callFunc 100 args).run Try.prog w = .ok (.enter 100 args) w := callEnter Try.func100 (by kernel_rfl) rfl args w
theorem CG101 (args : Array Value) (w : World) : (callFunc 101 args).run Try.prog w = .ok (.enter 101 args) w := callEnter Try.func101 (by kernel_rfl) rfl args w
theorem CG102 (args : Array Value) (w : World) : (callFunc 102 args).run Try.prog w = .ok (.enter 102 args) w := callEnter Try.func102 (by kernel_rfl) rfl args w
theorem CG103 (args : Array Value) (w : World) : (callFunc 103 args).run Try.prog w = .ok (.enter 103 args) w := callEnter Try.func103 (by kernel_rfl) rfl args w
theorem CG104 (args : Array Value) (w : World) : (callFunc 104 args).run Try.prog w = .ok (.enter 104 args) w := callEnter Try.func104 (by kernel_rfl) rfl args w
/-- A number's bytes lie in row g. -/
def BAt (w : World) (g : Nat) (l : List UInt8) : Prop := l.length = 32 ∧ ∃ t, w.heap[g]? = some (.cells (bcs l).toArray t (0, 0))
theorem BAt.keep {w w' : World} {g : Nat} {l : List UInt8} (h : BAt w g l) (hb : Below w.heap.size w w') : BAt w' g l := by
  obtain ⟨hl, t, ht⟩ := h
  exact ⟨hl, t, (hb.block g (Array.getElem?_eq_some_iff.1 ht).1).trans ht⟩
theorem BAt.grown {w w' : World} {g : Nat} {l : List UInt8} {row : Option Nat} (h : BAt w g l) (hb : w.grownBy w' row) (hg : some g ≠ row) : BAt w' g l := by
  obtain ⟨hl, t, ht⟩ := h
  exact ⟨hl, t, (hb.block g (Array.getElem?_eq_some_iff.1 ht).1 hg).trans ht⟩
theorem BAt.cell {w : World} {g : Nat} {l : List UInt8} (h : BAt w g l) (i : Nat) (hi : i < 32) : w.cell? ⟨g, i, none⟩ = some (.int .u8 ((l.getD i 0).toNat : Nat)) := by
  obtain ⟨hl, t, ht⟩ := h
  refine row_cells ht i _ ?_
  rw [List.toList_toArray, bcs_get, List.getD_eq_getElem?_getD, List.getElem?_eq_getElem (by omega)]
  rfl

theorem bcs_put (l : List UInt8) (j : Nat) (b : UInt8) : (bcs l).toArray.setIfInBounds j (bc b) = (bcs (l.set j b)).toArray := by
  apply Array.toList_inj.1
  rw [Array.toList_setIfInBounds]
  simp [bcs, List.map_set]
end Go.Proofs.Ytgdimnbdnepbgaa
/- Regions that draw their order, make rows and fill them: each operation is looked at once, whatever the order. No statement is proved here. -/
namespace Go.Proofs.Ytgdimnbdnepbgaa.RO
open Go.RowKit
set_option linter.unusedVariables false
set_option linter.unusedSimpArgs false

/-- What an operation does: it yields a value; it makes a row (its cells, their type, the cells that it is to hold at the end); it fills the row that operation k makes. -/
inductive Spc
  | val (v : Value)
  | new (z : Array Value) (t : TypeId) (c : Array Value)
  | put (k : Nat)
def vof (sp : List Spc) (γ : Nat → Nat) (i : Nat) : Value :=
  match sp[i]? with
  | some (.val v) => v
  | some (.new _ _ _) => .pointer (some ⟨γ i, 0, none⟩)
  | _ => undef
def dof (l : List Oper) (i : Nat) : Option Nat := (l[i]?).bind (·.dst)
def dep (l : List Oper) (i j : Nat) : Bool :=
  match l[i]? with
  | some o => o.after.toList.any fun e => Region.binds .any e && (e.on == j)
  | none => false
def fresh (l : List Oper) (d : Nat) : Bool := l.all fun o => !(o.dst == some d)
theorem put_defers (a : Act) (o : Option Nat) (v : Value) : (a.put o v).defers = a.defers := by cases o <;> rfl
theorem put_size (a : Act) (o : Option Nat) (v : Value) : (a.put o v).tmps.size = a.tmps.size := by
  cases o with
  | none => rfl
  | some d => exact Array.size_setIfInBounds ..
theorem put_get (a : Act) (d : Nat) (v : Value) (h : d < a.tmps.size) : (a.put (some d) v).tmps[d]? = some v := by
  show (a.tmps.setIfInBounds d v)[d]? = some v
  simp [h]
theorem put_other (a : Act) (o : Option Nat) (e : Nat) (v : Value) (h : o ≠ some e) : (a.put o v).tmps[e]? = a.tmps[e]? := by
  cases o with
  | none => rfl
  | some d =>
    show (a.tmps.setIfInBounds d v)[e]? = a.tmps[e]?
    exact Array.getElem?_setIfInBounds_ne (fun h' => h (by rw [h']))
/-- The state when the operations of L are done. -/
structure St (l : List Oper) (sp : List Spc) (a0 : Act) (W : World) (L : Nat → Bool) (γ : Nat → Nat) (a : Act) (w : World) : Prop where
  df : a.defers = a0.defers
  sz : a.tmps.size = a0.tmps.size
  on : ∀ i d, L i = true → dof l i = some d → a.tmps[d]? = some (vof sp γ i)
  off : ∀ d, (∀ i, L i = true → dof l i ≠ some d) → a.tmps[d]? = a0.tmps[d]?
  bel : Below W.heap.size W w
  lt : ∀ i z t c, L i = true → sp[i]? = some (.new z t c) → W.heap.size ≤ γ i ∧ γ i < w.heap.size
  hz : ∀ i z t c, L i = true → sp[i]? = some (.new z t c) → (∀ j, L j = true → sp[j]? ≠ some (.put i)) → w.heap[γ i]? = some (.cells z t (0, 0))
  hc : ∀ i z t c, L i = true → sp[i]? = some (.new z t c) → ∀ j, L j = true → sp[j]? = some (.put i) → w.heap[γ i]? = some (.cells c t (0, 0))
  ne : ∀ i j z t c z' t' c', L i = true → L j = true → i ≠ j → sp[i]? = some (.new z t c) → sp[j]? = some (.new z' t' c') → γ i ≠ γ j
  pn : ∀ i k, L i = true → sp[i]? = some (.put k) → L k = true
def up (L : Nat → Bool) (i : Nat) : Nat → Bool := fun j => j == i || L j
theorem up_self (L : Nat → Bool) (i : Nat) : up L i i = true := by simp [up]
theorem up_of {L : Nat → Bool} {i j : Nat} (h : L j = true) : up L i j = true := by simp [up, h]
theorem up_cases {L : Nat → Bool} {i j : Nat} (h : up L i j = true) : j = i ∨ (j ≠ i ∧ L j = true) := by
  unfold up at h
  by_cases e : j = i
  · exact .inl e
  · exact .inr ⟨e, by simpa [e] using h⟩
section
variable {l : List Oper} {sp : List Spc} {a0 a : Act} {W w w' : World} {L : Nat → Bool} {γ : Nat → Nat} {i : Nat}
theorem St.val {v : Value} (h : St l sp a0 W L γ a w) (hL : L i = false) (hs : sp[i]? = some (.val v)) (hu : ∀ j d, j ≠ i → dof l i = some d → dof l j ≠ some d) (hd : ∀ d, dof l i = some d → d < a0.tmps.size) (hb : Below w.heap.size w w') :
    St l sp a0 W (up L i) γ (a.put (dof l i) v) w' where
  df := by rw [put_defers, h.df]
  sz := by rw [put_size, h.sz]
  on := by
    intro j d hj hjd
    rcases up_cases hj with rfl | ⟨hne, hj⟩
    · rw [hjd, put_get _ _ _ (by rw [h.sz]; exact hd d hjd)]
      unfold vof
      rw [hs]
    · rw [put_other _ _ _ _ (fun e => hu j d hne e hjd)]
      exact h.on j d hj hjd
  off := by
    intro d hd'
    rw [put_other _ _ _ _ (hd' i (up_self L i))]
    exact h.off d fun j hj => hd' j (up_of hj)
  bel := h.bel.trans (hb.mono h.bel.size)
  lt := by
    intro j z t c hj hjs
    rcases up_cases hj with rfl | ⟨hne, hj⟩
    · rw [hs] at hjs; cases hjs
    · have := h.lt j z t c hj hjs
      have := hb.size
      omega
  hz := by
    intro j z t c hj hjs hno
    rcases up_cases hj with rfl | ⟨hne, hj⟩
    · rw [hs] at hjs; cases hjs
    · rw [hb.block _ (h.lt j z t c hj hjs).2]
      exact h.hz j z t c hj hjs fun k hk => hno k (up_of hk)
  hc := by
    intro j z t c hj hjs k hk hks
    rcases up_cases hj with rfl | ⟨hne, hj⟩
    · rw [hs] at hjs; cases hjs
    · rcases up_cases hk with rfl | ⟨_, hk⟩
      · rw [hs] at hks; cases hks
      · rw [hb.block _ (h.lt j z t c hj hjs).2]
        exact h.hc j z t c hj hjs k hk hks
  ne := by
    intro j k z t c z' t' c' hj hk hjk hjs hks
    rcases up_cases hj with rfl | ⟨_, hj⟩
    · rw [hs] at hjs; cases hjs
    · rcases up_cases hk with rfl | ⟨_, hk⟩
      · rw [hs] at hks; cases hks
      · exact h.ne j k z t c z' t' c' hj hk hjk hjs hks
  pn := by
    intro j k hj hjs
    rcases up_cases hj with rfl | ⟨_, hj⟩
    · rw [hs] at hjs; cases hjs
    · exact up_of (h.pn j k hj hjs)
def uγ (γ : Nat → Nat) (i g : Nat) : Nat → Nat := fun j => if j = i then g else γ j
theorem vof_u {j g : Nat} (h : j ≠ i) : vof sp (uγ γ i g) j = vof sp γ j := by
  unfold vof uγ
  rw [if_neg h]
theorem St.new {z : Array Value} {t : TypeId} {c : Array Value} (h : St l sp a0 W L γ a w) (hL : L i = false) (hs : sp[i]? = some (.new z t c)) (hu : ∀ j d, j ≠ i → dof l i = some d → dof l j ≠ some d) (hd : ∀ d, dof l i = some d → d < a0.tmps.size) :
    St l sp a0 W (up L i) (uγ γ i w.heap.size) (a.put (dof l i) (.pointer (some ⟨w.heap.size, 0, none⟩))) (w.alloc (.cells z t)) := by
  have hb := below_alloc w (.cells z t)
  have hu1 : uγ γ i w.heap.size i = w.heap.size := if_pos rfl
  have hu2 : ∀ j, j ≠ i → uγ γ i w.heap.size j = γ j := fun j hj => if_neg hj
  have hnp : ∀ j, L j = true → sp[j]? ≠ some (.put i) := fun j hj e => by have := h.pn j i hj e; rw [hL] at this; cases this
  have hsz : (w.alloc (.cells z t)).heap.size = w.heap.size + 1 := by simp
  refine ⟨by rw [put_defers, h.df], by rw [put_size, h.sz], ?_, ?_, h.bel.trans (hb.mono h.bel.size), ?_, ?_, ?_, ?_, ?_⟩
  · intro j d hj hjd
    rcases up_cases hj with rfl | ⟨hne, hj⟩
    · rw [hjd, put_get _ _ _ (by rw [h.sz]; exact hd d hjd)]
      unfold vof
      rw [hs, hu1]
    · rw [put_other _ _ _ _ (fun e => hu j d hne e hjd), vof_u hne]
      exact h.on j d hj hjd
  · intro d hd'
    rw [put_other _ _ _ _ (hd' i (up_self L i))]
    exact h.off d fun j hj => hd' j (up_of hj)
  · intro j z' t' c' hj hjs
    rw [hsz]
    rcases up_cases hj with rfl | ⟨hne, hj⟩
    · rw [hu1]; have := h.bel.size; omega
    · rw [hu2 j hne]; have := h.lt j z' t' c' hj hjs; omega
  · intro j z' t' c' hj hjs hno
    rcases up_cases hj with rfl | ⟨hne, hj⟩
    · rw [hs] at hjs
      cases hjs
      rw [hu1]
      exact heap_alloc_new w _
    · rw [hu2 j hne, hb.block _ (h.lt j z' t' c' hj hjs).2]
      exact h.hz j z' t' c' hj hjs fun k hk => hno k (up_of hk)
  · intro j z' t' c' hj hjs k hk hks
    rcases up_cases hk with rfl | ⟨_, hk2⟩
    · rw [hs] at hks; cases hks
    · rcases up_cases hj with rfl | ⟨hne, hj2⟩
      · exact absurd hks (hnp k hk2)
      · rw [hu2 j hne, hb.block _ (h.lt j z' t' c' hj2 hjs).2]
        exact h.hc j z' t' c' hj2 hjs k hk2 hks
  · intro j k z1 t1 c1 z2 t2 c2 hj hk hjk hjs hks
    rcases up_cases hj with rfl | ⟨hj', hj2⟩
    · rcases up_cases hk with rfl | ⟨hk', hk2⟩
      · exact absurd rfl hjk
      · rw [hu1, hu2 k hk']; have := (h.lt k _ _ _ hk2 hks).2; omega
    · rcases up_cases hk with rfl | ⟨hk', hk2⟩
      · rw [hu1, hu2 j hj']; have := (h.lt j _ _ _ hj2 hjs).2; omega
      · rw [hu2 j hj', hu2 k hk']
        exact h.ne j k z1 t1 c1 z2 t2 c2 hj2 hk2 hjk hjs hks
  · intro j k hj hjs
    rcases up_cases hj with rfl | ⟨_, hj⟩
    · rw [hs] at hjs; cases hjs
    · exact up_of (h.pn j k hj hjs)
theorem St.put {k : Nat} {z : Array Value} {t : TypeId} {c : Array Value} (h : St l sp a0 W L γ a w) (hL : L i = false) (hs : sp[i]? = some (.put k)) (hdn : dof l i = none) (hk : L k = true) (hks : sp[k]? = some (.new z t c))
    (huq : ∀ j, j ≠ i → sp[j]? ≠ some (.put k)) (hg : w.grownBy w' (some (γ k))) (hw : w'.heap[γ k]? = some (.cells c t (0, 0))) (hsz : w'.heap.size = w.heap.size) : St l sp a0 W (up L i) γ a w' := by
  have hoth : ∀ j, L j = true → j ≠ k → ∀ z t c, sp[j]? = some (.new z t c) → w'.heap[γ j]? = w.heap[γ j]? := fun j hj hjk z' t' c' hjs =>
    hg.block _ (h.lt j z' t' c' hj hjs).2 (fun e => h.ne j k _ _ _ _ _ _ hj hk hjk hjs hks (by injection e))
  refine ⟨h.df, h.sz, ?_, ?_, h.bel.grown hg h.bel.size (fun r hr => by injection hr with hr; rw [← hr]; exact (h.lt k z t c hk hks).1), ?_, ?_, ?_, ?_, ?_⟩
  · intro j d hj hjd
    rcases up_cases hj with rfl | ⟨hne, hj⟩
    · rw [hdn] at hjd; cases hjd
    · exact h.on j d hj hjd
  · intro d hd'
    exact h.off d fun j hj => hd' j (up_of hj)
  · intro j z' t' c' hj hjs
    rcases up_cases hj with rfl | ⟨hne, hj⟩
    · rw [hs] at hjs; cases hjs
    · rw [hsz]; exact h.lt j z' t' c' hj hjs
  · intro j z' t' c' hj hjs hno
    rcases up_cases hj with rfl | ⟨hne, hj⟩
    · rw [hs] at hjs; cases hjs
    · have hjk : j ≠ k := fun e => hno i (up_self L i) (by rw [hs, e])
      rw [hoth j hj hjk z' t' c' hjs]
      exact h.hz j z' t' c' hj hjs fun k hk => hno k (up_of hk)
  · intro j z' t' c' hj hjs q hq hqs
    rcases up_cases hj with rfl | ⟨hne, hj⟩
    · rw [hs] at hjs; cases hjs
    · by_cases hjk : j = k
      · subst hjk
        rw [hks] at hjs
        cases hjs
        exact hw
      · rcases up_cases hq with rfl | ⟨_, hq⟩
        · rw [hs] at hqs
          cases hqs
          exact absurd rfl hjk
        · rw [hoth j hj hjk z' t' c' hjs]
          exact h.hc j z' t' c' hj hjs q hq hqs
  · intro j q z1 t1 c1 z2 t2 c2 hj hq hjq hjs hqs
    rcases up_cases hj with rfl | ⟨_, hj⟩
    · rw [hs] at hjs; cases hjs
    · rcases up_cases hq with rfl | ⟨_, hq⟩
      · rw [hs] at hqs; cases hqs
      · exact h.ne j q z1 t1 c1 z2 t2 c2 hj hq hjq hjs hqs
  · intro j q hj hjs
    rcases up_cases hj with rfl | ⟨_, hj⟩
    · rw [hs] at hjs
      cases hjs
      exact up_of hk
    · exact up_of (h.pn j q hj hjs)
end
/-- What an operation may take for granted: the values of those that it waits for, and of the slots that the region doesn't fill. -/
def Dp (l : List Oper) (sp : List Spc) (a0 : Act) (γ : Nat → Nat) (i : Nat) (a : Act) : Prop :=
  (∀ j d, dep l i j = true → dof l j = some d → a.eval (.tmp d) = vof sp γ j) ∧ (∀ d, fresh l d = true → a.eval (.tmp d) = a0.eval (.tmp d))
def Vat (P : Program) (o : Oper) (a : Act) (w : World) (v : Value) : Prop :=
  (execOp a.eval o).run P w = .ok (.value v) w ∨ ∃ f args, (execOp a.eval o).run P w = .ok (.enter f args) w ∧ Calls P f args w (Gives v w)
def OkAt (P : Program) (l : List Oper) (sp : List Spc) (a0 : Act) (W : World) (i : Nat) (o : Oper) : Spc → Prop
  | .val v => ∀ γ a w, Below W.heap.size W w → Dp l sp a0 γ i a → Vat P o a w v
  | .new z t c => ∀ (a : Act) w, (execOp a.eval o).run P w = .ok (.value (.pointer (some ⟨w.heap.size, 0, none⟩))) (w.alloc (.cells z t))
  | .put k => ∀ γ a w z t c, sp[k]? = some (.new z t c) → Dp l sp a0 γ i a → w.heap[γ k]? = some (.cells z t (0, 0)) →
      ∃ w', (execOp a.eval o).run P w = .ok .skip w' ∧ w'.heap[γ k]? = some (.cells c t (0, 0)) ∧ w.grownBy w' (some (γ k)) ∧ w'.heap.size = w.heap.size
def AllOk (P : Program) (l : List Oper) (sp : List Spc) (a0 : Act) (W : World) : Nat → List Oper → List Spc → Prop
  | i, o :: os, s :: ss => OkAt P l sp a0 W i o s ∧ AllOk P l sp a0 W (i + 1) os ss
  | _, _, [] => True
  | _, [], _ :: _ => False
theorem AllOk.at {P : Program} {l : List Oper} {sp : List Spc} {a0 : Act} {W : World} : ∀ (os : List Oper) (ss : List Spc) (i : Nat), AllOk P l sp a0 W i os ss → ∀ j s, ss[j]? = some s → ∃ o, os[j]? = some o ∧ OkAt P l sp a0 W (i + j) o s
  | _, [], _, _, j, s, h => by simp at h
  | [], _ :: _, _, h, _, _, _ => absurd h id
  | o :: os, x :: ss, i, h, 0, s, hs => by
    simp only [List.getElem?_cons_zero, Option.some.injEq] at hs
    exact ⟨o, rfl, by rw [← hs]; exact h.1⟩
  | o :: os, x :: ss, i, h, j + 1, s, hs => by
    simp only [List.getElem?_cons_succ] at hs
    obtain ⟨o', h1, h2⟩ := AllOk.at os ss (i + 1) h.2 j s hs
    exact ⟨o', by simpa using h1, by rw [show i + (j + 1) = i + 1 + j by omega]; exact h2⟩
/-- The order of the text is an order; nothing is guarded; no slot is filled twice. -/
def chk (l : List Oper) (nt : Nat) : Bool :=
  (List.range l.length).all fun i => match l[i]? with
    | some o => o.guard.isNone && (o.after.toList.all fun e => !Region.binds .any e || decide (e.on < i)) && (match o.dst with | some d => decide (d < nt) && ((List.range l.length).all fun j => j == i || !(dof l j == some d)) | none => true)
    | none => true
def chkP (l : List Oper) (sp : List Spc) : Bool :=
  (List.range sp.length).all fun i => match sp[i]? with
    | some (.put k) => dep l i k && (dof l i).isNone && (match sp[k]? with | some (.new _ _ _) => true | _ => false) && ((List.range sp.length).all fun j => j == i || (match sp[j]? with | some (.put k') => !(k' == k) | _ => true))
    | _ => true
section
variable {P : Program} {l : List Oper} {sp : List Spc} {a0 a : Act} {W w w' : World} {γ : Nat → Nat} {i nt : Nat} {Q : Exit → Act → World → Prop}
theorem chk_at (h : chk l nt = true) {o : Oper} (ho : l[i]? = some o) : o.guard = none ∧ (∀ e ∈ o.after, Region.binds .any e = true → e.on < i) ∧ (∀ d, o.dst = some d → d < nt ∧ ∀ j, j ≠ i → dof l j ≠ some d) := by
  have hi : i < l.length := (List.getElem?_eq_some_iff.1 ho).1
  have h1 := List.all_eq_true.1 h i (List.mem_range.2 hi)
  simp only [ho, Bool.and_eq_true] at h1
  obtain ⟨⟨hg, he⟩, hd⟩ := h1
  refine ⟨Option.isNone_iff_eq_none.1 hg, fun e hm hb => ?_, fun d hd' => ?_⟩
  · have := List.all_eq_true.1 he e (Array.mem_toList_iff.2 hm)
    simpa [hb] using this
  · rw [hd'] at hd
    simp only [Bool.and_eq_true, decide_eq_true_eq] at hd
    refine ⟨hd.1, fun j hj e => ?_⟩
    have hjl : j < l.length := by
      unfold dof at e
      cases hq : l[j]? with
      | none => rw [hq] at e; cases e
      | some q => exact (List.getElem?_eq_some_iff.1 hq).1
    have := List.all_eq_true.1 hd.2 j (List.mem_range.2 hjl)
    simp [hj, e] at this
theorem dep_of {o : Oper} (ho : l[i]? = some o) {j : Nat} (h : dep l i j = true) : ∃ e ∈ o.after, Region.binds .any e = true ∧ e.on = j := by
  unfold dep at h
  rw [ho] at h
  obtain ⟨e, he, hb⟩ := List.any_eq_true.1 h
  simp only [Bool.and_eq_true, beq_iff_eq] at hb
  exact ⟨e, Array.mem_toList_iff.1 he, hb.1, hb.2⟩
theorem chkP_at (h : chkP l sp = true) {k : Nat} (hs : sp[i]? = some (.put k)) : dep l i k = true ∧ dof l i = none ∧ (∃ z t c, sp[k]? = some (.new z t c)) ∧ ∀ j, j ≠ i → sp[j]? ≠ some (.put k) := by
  have hi : i < sp.length := (List.getElem?_eq_some_iff.1 hs).1
  have h1 := List.all_eq_true.1 h i (List.mem_range.2 hi)
  simp only [hs, Bool.and_eq_true] at h1
  obtain ⟨⟨⟨h1, h2⟩, h3⟩, h4⟩ := h1
  refine ⟨h1, Option.isNone_iff_eq_none.1 h2, ?_, fun j hj e => ?_⟩
  · cases hq : sp[k]? with
    | none => rw [hq] at h3; cases h3
    | some q =>
      cases q with
      | new z t c => exact ⟨z, t, c, rfl⟩
      | val v => rw [hq] at h3; cases h3
      | put k' => rw [hq] at h3; cases h3
  · have hj' : j < sp.length := (List.getElem?_eq_some_iff.1 e).1
    have := List.all_eq_true.1 h4 j (List.mem_range.2 hj')
    simp [hj, e] at this
theorem eval_get {v : Value} (h : a.tmps[i]? = some v) : a.eval (.tmp i) = v := by
  show a.tmps.getD i undef = v
  rw [Array.getD_eq_getD_getElem?, h]
  rfl
theorem eval_same {d : Nat} (h : a.tmps[d]? = a0.tmps[d]?) : a.eval (.tmp d) = a0.eval (.tmp d) := by
  show a.tmps.getD d undef = a0.tmps.getD d undef
  rw [Array.getD_eq_getD_getElem?, Array.getD_eq_getD_getElem?, h]
theorem St.dp {L : Nat → Bool} (h : St l sp a0 W L γ a w) {o : Oper} (ho : l[i]? = some o) (hr : ∀ e ∈ o.after, Region.binds .any e = true → L e.on = true) : Dp l sp a0 γ i a := by
  refine ⟨fun j d hd hj => ?_, fun d hd => ?_⟩
  · obtain ⟨e, he, hb, rfl⟩ := dep_of ho hd
    exact eval_get (h.on _ d (hr e he hb) hj)
  · refine eval_same (h.off d fun j _ e => ?_)
    unfold dof at e
    cases hq : l[j]? with
    | none => rw [hq] at e; cases e
    | some q =>
      rw [hq] at e
      have := List.all_eq_true.1 hd q (List.mem_of_getElem? hq)
      have e' : q.dst = some d := e
      simp [e'] at this
/-- One operation that may come: what it leads to. -/
theorem St.step {L : Nat → Bool} (hc : chk l nt = true) (hp : chkP l sp = true) (hnt : a0.tmps.size = nt) (ok : AllOk P l sp a0 W 0 l sp) (h : St l sp a0 W L γ a w) (hL : L i = false) (hi : i < sp.length)
    {o : Oper} (ho : l[i]? = some o) (hr : ∀ e ∈ o.after, Region.binds .any e = true → L e.on = true) {K : Act → World → Prop} (hK : ∀ γ' a' w', St l sp a0 W (up L i) γ' a' w' → K a' w') : wpOp P l.toArray Q i K a w := by
  obtain ⟨s, hs⟩ : ∃ s, sp[i]? = some s := ⟨_, List.getElem?_eq_getElem hi⟩
  obtain ⟨o', ho', okc⟩ := AllOk.at l sp 0 ok i s hs
  rw [ho] at ho'
  obtain rfl : o = o' := by injection ho'
  rw [Nat.zero_add] at okc
  obtain ⟨hg, _, hd⟩ := chk_at hc ho
  have hdo : dof l i = o.dst := by unfold dof; rw [ho]; rfl
  have hu : ∀ j d, j ≠ i → dof l i = some d → dof l j ≠ some d := fun j d hj e => (hd d (by rw [← hdo]; exact e)).2 j hj
  have hb : ∀ d, dof l i = some d → d < a0.tmps.size := fun d e => by rw [hnt]; exact (hd d (by rw [← hdo]; exact e)).1
  have hw : Region.wanted o (yielded l.toArray a.tmps) = true := by unfold Region.wanted; rw [hg]
  have hoa : l.toArray[i]? = some o := by simpa using ho
  have D := h.dp ho hr
  cases s with
  | val v =>
    rcases okc γ a w h.bel D with he | ⟨f, args, he, hcall⟩
    · have := h.val hL hs hu hb (Below.refl _ _)
      rw [hdo] at this
      exact wpOp_value hoa hw he (hK _ _ _ this)
    · refine wpOp_call hoa hw he (hcall.mono ?_)
      rintro e w' ⟨rfl, hbl⟩
      have := h.val hL hs hu hb hbl
      rw [hdo] at this
      exact ⟨v, rfl, hK _ _ _ this⟩
  | new z t c =>
    have := h.new hL hs hu hb
    rw [hdo] at this
    exact wpOp_value hoa hw (okc a w) (hK _ _ _ this)
  | put k =>
    obtain ⟨hdk, hdn, ⟨z, t, c, hks⟩, huq⟩ := chkP_at hp hs
    obtain ⟨e, he, hbd, rfl⟩ := dep_of ho hdk
    have hk := hr e he hbd
    have hz := h.hz _ z t c hk hks fun j hj ej => by
      by_cases e2 : j = i
      · rw [e2, hL] at hj; cases hj
      · exact huq j e2 ej
    obtain ⟨w', h1, h2, h3, h4⟩ := okc γ a w z t c hks D hz
    have := h.put hL hs hdn hk hks huq h3 h2 h4
    unfold wpOp
    rw [hoa]
    simp only [hw, if_true]
    refine .inl ?_
    unfold Oper.wp
    rw [h1]
    have hdn' : o.dst = none := by rw [← hdo]; exact hdn
    show K (a.put o.dst undef) w'
    rw [hdn']
    exact hK _ _ _ this
end
def Lof (listed : Array Bool) : Nat → Bool := fun i => listed.getD i false
theorem Lof_set {listed : Array Bool} {i : Nat} (h : i < listed.size) : Lof (listed.setIfInBounds i true) = up (Lof listed) i := by
  funext j
  unfold Lof up
  by_cases e : j = i
  · subst e; simp [h]
  · rw [getD_set_ne false (Ne.symm e)]; simp [e]
theorem count_set {listed : Array Bool} {i : Nat} (h : i < listed.size) (hf : listed.getD i false = false) : (listed.setIfInBounds i true).toList.count false + 1 = listed.toList.count false := by
  have h1 : listed.toList[i]'(by simpa using h) = false := by simpa [h] using hf
  have h2 : 0 < listed.toList.count false := List.count_pos_iff.2 (by rw [← h1]; exact List.getElem_mem _)
  rw [Array.toList_setIfInBounds, List.count_set (by simpa using h), h1, if_pos (show (false == false) = true from rfl), if_neg (show ¬ (true == false) = true by decide)]
  omega
theorem count_unlisted {listed : Array Bool} {i : Nat} (h : i < listed.size) (hf : listed.getD i false = false) : 0 < listed.toList.count false := by
  have := count_set h hf
  omega
theorem least {m : Nat} {p : Nat → Bool} (h : ¬ ∀ i, i < m → p i = true) : ∃ i, i < m ∧ p i = false ∧ ∀ j, j < i → p j = true := by
  induction m with
  | zero => exact absurd (fun i hi => absurd hi (Nat.not_lt_zero i)) h
  | succ m ih =>
    by_cases hm : ∀ i, i < m → p i = true
    · refine ⟨m, Nat.lt_succ_self m, ?_, hm⟩
      cases hq : p m with
      | false => rfl
      | true =>
        refine absurd (fun i hi => ?_) h
        by_cases e : i = m
        · rw [e]; exact hq
        · exact hm i (by omega)
    · obtain ⟨i, h1, h2, h3⟩ := ih hm
      exact ⟨i, by omega, h2, h3⟩
section
variable {P : Program} {l : List Oper} {sp : List Spc} {a0 : Act} {W : World} {nt : Nat} {Q : Exit → Act → World → Prop}
theorem run_once (hc : chk l nt = true) (hp : chkP l sp = true) (hnt : a0.tmps.size = nt) (ok : AllOk P l sp a0 W 0 l sp) (hl : sp.length ≤ l.length) (hout : ∀ i o, sp.length ≤ i → l[i]? = some o → ∀ j, j < sp.length → dep l i j = true)
    (FIN : ∀ (listed : Array Bool) γ a w fuel, listed.size = l.length → (∀ i, i < sp.length → Lof listed i = true) → (∀ i, sp.length ≤ i → Lof listed i = false) → listed.toList.count false ≤ fuel → St l sp a0 W (Lof listed) γ a w → wpAny P .any l.toArray Q fuel listed a w) :
    ∀ fuel (listed : Array Bool) γ a w, listed.size = l.length → (∀ i, sp.length ≤ i → Lof listed i = false) → listed.toList.count false ≤ fuel → St l sp a0 W (Lof listed) γ a w → wpAny P .any l.toArray Q fuel listed a w := by
  intro fuel
  induction fuel with
  | zero =>
    intro listed γ a w hs hno hcnt h
    refine FIN listed γ a w 0 hs (fun i hi => ?_) hno hcnt h
    cases hq : Lof listed i with
    | true => rfl
    | false => have := count_unlisted (listed := listed) (i := i) (by omega) hq; omega
  | succ fuel ih =>
    intro listed γ a w hs hno hcnt h
    by_cases hall : ∀ i, i < sp.length → Lof listed i = true
    · exact FIN listed γ a w _ hs hall hno hcnt h
    · obtain ⟨i0, hi0, hf0, hlt0⟩ := least hall
      refine ⟨fun h0 => ?_, fun i hi => ?_⟩
      · exfalso
        have ho : l[i0]? = some (l[i0]'(by omega)) := List.getElem?_eq_getElem _
        have : i0 ∈ Region.ready .any l.toArray listed := by
          rw [mem_ready]
          refine ⟨?_, _, (show l.toArray[i0]? = some _ from by rw [List.getElem?_toArray]; exact ho), fun e he hb => ?_⟩
          · have hb : i0 < listed.size := by omega
            have hf := hf0
            unfold Lof at hf
            simp [hb] at hf ⊢
            exact hf
          · exact hlt0 _ ((chk_at hc ho).2.1 e he hb)
        rw [h0] at this
        cases this
      · obtain ⟨hun, o, ho, hr⟩ := mem_ready.1 hi
        have ho' : l[i]? = some o := by simpa using ho
        have hil : i < l.length := (List.getElem?_eq_some_iff.1 ho').1
        have hfi : Lof listed i = false := by
          unfold Lof
          have hb : i < listed.size := by omega
          simp [hb] at hun ⊢
          exact hun
        have him : i < sp.length := by
          by_cases hm : i < sp.length
          · exact hm
          · exfalso
            obtain ⟨e, he, hb, heq⟩ := dep_of ho' (hout i o (by omega) ho' i0 hi0)
            have := hr e he hb
            rw [heq] at this
            unfold Lof at hf0
            rw [hf0] at this
            cases this
        refine h.step hc hp hnt ok hfi him ho' hr fun γ' a' w' h' => ?_
        rw [← Lof_set (by omega : i < listed.size)] at h'
        have hcs := count_set (listed := listed) (i := i) (by omega) hfi
        refine ih _ γ' a' w' (by rw [Array.size_setIfInBounds]; exact hs) (fun j hj => ?_) (by omega) h'
        rw [Lof_set (by omega : i < listed.size)]
        unfold up
        rw [hno j hj]
        simp
        omega
theorem done_any {listed : Array Bool} {a : Act} {w : World} (hr : Region.ready .any l.toArray listed = []) (h : Q .normal a w) : ∀ fuel, wpAny P .any l.toArray Q fuel listed a w
  | 0 => ⟨hr, h⟩
  | _ + 1 => ⟨fun _ => h, by rw [hr]; simp⟩
/-- The slots at the end. -/
def lexi (sp : List Spc) (γ : Nat → Nat) : Nat → List Oper → Act → Act
  | _, [], a => a
  | i, o :: r, a => lexi sp γ (i + 1) r (a.put o.dst (vof sp γ i))
theorem lexi_defers (γ : Nat → Nat) : ∀ (r : List Oper) (i : Nat) (a : Act), (lexi sp γ i r a).defers = a.defers
  | [], _, _ => rfl
  | o :: r, i, a => by show (lexi sp γ (i + 1) r _).defers = _; rw [lexi_defers γ r, put_defers]
theorem lexi_size (γ : Nat → Nat) : ∀ (r : List Oper) (i : Nat) (a : Act), (lexi sp γ i r a).tmps.size = a.tmps.size
  | [], _, _ => rfl
  | o :: r, i, a => by show (lexi sp γ (i + 1) r _).tmps.size = _; rw [lexi_size γ r, put_size]
theorem lexi_none (γ : Nat → Nat) (d : Nat) : ∀ (r : List Oper) (i : Nat) (a : Act), (∀ j, dof r j ≠ some d) → (lexi sp γ i r a).tmps[d]? = a.tmps[d]?
  | [], _, _, _ => rfl
  | o :: r, i, a, h => by
    show (lexi sp γ (i + 1) r _).tmps[d]? = _
    rw [lexi_none γ d r (i + 1) _ (fun j => h (j + 1)), put_other _ _ _ _ (show o.dst ≠ some d from h 0)]
theorem lexi_some (γ : Nat → Nat) (d : Nat) : ∀ (r : List Oper) (i : Nat) (a : Act) (j : Nat), d < a.tmps.size → dof r j = some d → (∀ k, k ≠ j → dof r k ≠ some d) → (lexi sp γ i r a).tmps[d]? = some (vof sp γ (i + j))
  | [], _, _, j, _, h, _ => by simp [dof] at h
  | o :: r, i, a, 0, hd, h, hu => by
    show (lexi sp γ (i + 1) r _).tmps[d]? = _
    have ho : o.dst = some d := h
    rw [lexi_none γ d r (i + 1) _ (fun k => hu (k + 1) (by omega)), ho, put_get _ _ _ hd]
    rfl
  | o :: r, i, a, j + 1, hd, h, hu => by
    show (lexi sp γ (i + 1) r _).tmps[d]? = _
    rw [lexi_some γ d r (i + 1) _ j (by rw [put_size]; exact hd) h (fun k hk => hu (k + 1) (by omega)), show i + (j + 1) = i + 1 + j by omega]
theorem St.is {L : Nat → Bool} {γ : Nat → Nat} {a : Act} {w : World} (hc : chk l nt = true) (hnt : a0.tmps.size = nt) (h : St l sp a0 W L γ a w) (r : List Oper) (hr : ∀ j, dof r j = if j < sp.length then dof l j else none) (hL : ∀ j, L j = true ↔ j < sp.length) : a = lexi sp γ 0 r a0 := by
  have ht : a.tmps = (lexi sp γ 0 r a0).tmps := by
    apply Array.ext_getElem?
    intro d
    by_cases hj : ∃ j, dof r j = some d
    · obtain ⟨j, hj⟩ := hj
      have hjr := hj
      rw [hr] at hj
      by_cases hjm : j < sp.length
      · rw [if_pos hjm] at hj
        obtain ⟨o, ho, hod⟩ : ∃ o, l[j]? = some o ∧ o.dst = some d := by
          unfold dof at hj
          cases hq : l[j]? with
          | none => rw [hq] at hj; cases hj
          | some q => rw [hq] at hj; exact ⟨q, rfl, hj⟩
        obtain ⟨hdn, hu⟩ := (chk_at hc ho).2.2 d hod
        rw [h.on j d ((hL j).2 hjm) hj, lexi_some γ d r 0 a0 j (by rw [hnt]; exact hdn) hjr (fun k hk e => by
          rw [hr] at e
          split at e
          · exact hu k hk e
          · cases e), Nat.zero_add]
      · rw [if_neg hjm] at hj; cases hj
    · rw [lexi_none γ d r 0 a0 (fun j e => hj ⟨j, e⟩)]
      refine h.off d fun j hLj e => hj ⟨j, ?_⟩
      rw [hr, if_pos ((hL j).1 hLj)]
      exact e
  have hdf : a.defers = (lexi sp γ 0 r a0).defers := by rw [lexi_defers, h.df]
  cases a
  generalize lexi sp γ 0 r a0 = b at *
  cases b
  simp only at ht hdf
  rw [ht, hdf]
/-- What is known at the end of the rows that were made. -/
structure Fin (sp : List Spc) (W : World) (γ : Nat → Nat) (w : World) : Prop where
  bel : Below W.heap.size W w
  row : ∀ i z t c, sp[i]? = some (.new z t c) → W.heap.size ≤ γ i ∧ w.heap[γ i]? = some (.cells c t (0, 0))
  ne : ∀ i j z t c z' t' c', i ≠ j → sp[i]? = some (.new z t c) → sp[j]? = some (.new z' t' c') → γ i ≠ γ j
def chkF (sp : List Spc) : Bool :=
  (List.range sp.length).all fun i => match sp[i]? with
    | some (.new _ _ _) => (List.range sp.length).any fun j => match sp[j]? with | some (.put k) => k == i | _ => false
    | _ => true
theorem St.fin {L : Nat → Bool} {γ : Nat → Nat} {a : Act} {w : World} (hf : chkF sp = true) (h : St l sp a0 W L γ a w) (hL : ∀ j, j < sp.length → L j = true) : Fin sp W γ w := by
  have lt : ∀ {i s}, sp[i]? = some s → i < sp.length := fun h => (List.getElem?_eq_some_iff.1 h).1
  refine ⟨h.bel, fun i z t c hs => ⟨(h.lt i z t c (hL i (lt hs)) hs).1, ?_⟩, fun i j z t c z' t' c' hij hs hs' => h.ne i j z t c z' t' c' (hL i (lt hs)) (hL j (lt hs')) hij hs hs'⟩
  have h1 := List.all_eq_true.1 hf i (List.mem_range.2 (lt hs))
  rw [hs] at h1
  obtain ⟨j, hj, h2⟩ := List.any_eq_true.1 h1
  have hjm := List.mem_range.1 hj
  cases hq : sp[j]? with
  | none => rw [hq] at h2; cases h2
  | some q =>
    cases q with
    | val v => rw [hq] at h2; cases h2
    | new z t c => rw [hq] at h2; cases h2
    | put k =>
      rw [hq] at h2
      have : k = i := by simpa using h2
      subst this
      exact h.hc k z t c (hL k (lt hs)) hs j (hL j hjm) hq
theorem start (hl : Below W.heap.size W W.drew) : St l sp a0 W (Lof (Array.replicate l.toArray.size false)) (fun _ => 0) a0 W.drew := by
  have hno : ∀ i, Lof (Array.replicate l.toArray.size false) i = true → False := fun i hi => by
    unfold Lof at hi
    by_cases hb : i < l.length <;> simp [hb] at hi
  exact ⟨rfl, rfl, fun i _ hi => absurd hi (hno i), fun _ _ => rfl, hl, fun i _ _ _ hi => absurd hi (hno i), fun i _ _ _ hi => absurd hi (hno i), fun i _ _ _ hi => absurd hi (hno i), fun i _ _ _ _ _ _ _ hi => absurd hi (hno i), fun i _ hi => absurd hi (hno i)⟩
theorem start_no (i : Nat) : Lof (Array.replicate l.toArray.size false) i = false := by
  unfold Lof
  by_cases hb : i < l.length <;> simp [hb]
theorem start_count : (Array.replicate l.toArray.size false).toList.count false ≤ l.toArray.size := by
  rw [Array.toList_replicate]
  exact Nat.le_trans List.count_le_length (by simp)
theorem all_iff {L : Nat → Bool} {m : Nat} (hall : ∀ i, i < m → L i = true) (hno : ∀ i, m ≤ i → L i = false) (j : Nat) : L j = true ↔ j < m :=
  ⟨fun hj => Classical.byContradiction fun hn => (by rw [hno j (by omega)] at hj; cases hj), fun hj => hall j hj⟩
/-- A region that draws its order, all of whose operations yield, make or fill. -/
theorem region_once {id : Nat} (sp : List Spc) (nt : Nat) (hm : P.follows .mixedOrders = true) (hc : chk l nt = true) (hp : chkP l sp = true) (hf : chkF sp = true) (hlen : l.length = sp.length) (hnt : a0.tmps.size = nt) (ok : AllOk P l sp a0 W 0 l sp)
    (h : ∀ γ w, Fin sp W γ w → Q .normal (lexi sp γ 0 l a0) w) : (Code.region id l.toArray true).wp P Q a0 W := by
  refine wp_region_any hm (run_once hc hp hnt ok (by omega) (fun i o hi ho => by have := (List.getElem?_eq_some_iff.1 ho).1; omega) ?_ _ _ (fun _ => 0) a0 W.drew (by simp) (fun i _ => start_no i) start_count (start (below_drewN' (Below.refl _ W) 1)))
  intro listed γ a w fuel hs hall hno hcnt hst
  have hr : Region.ready .any l.toArray listed = [] := by
    apply List.eq_nil_iff_forall_not_mem.2
    intro i hi
    obtain ⟨hun, o, ho, _⟩ := mem_ready.1 hi
    have hil : i < l.length := (List.getElem?_eq_some_iff.1 (by simpa using ho)).1
    have := hall i (by omega)
    unfold Lof at this
    simp [show i < listed.size by omega] at hun this
    rw [hun] at this
    cases this
  refine done_any hr ?_ fuel
  have h2 : ∀ j, dof l j = if j < sp.length then dof l j else none := fun j => by
    split
    · rfl
    · unfold dof; rw [List.getElem?_eq_none (by omega)]; rfl
  rw [hst.is hc hnt l h2 (all_iff hall hno)]
  exact h γ w (hst.fin hf hall)
def chkO (l : List Oper) (m : Nat) : Bool := (List.range m).all fun j => dep l m j
/-- The same, with one store at its end that waits for all. -/
theorem region_out {id : Nat} (sp : List Spc) (nt m : Nat) (hsm : sp.length = m) (hm : P.follows .mixedOrders = true) (hc : chk l nt = true) (hp : chkP l sp = true) (hf : chkF sp = true) (hlen : l.length = sp.length + 1) (hnt : a0.tmps.size = nt) (ok : AllOk P l sp a0 W 0 l sp)
    (ho : chkO l sp.length = true) (o : Oper) (hlo : l[sp.length]? = some o) (hod : o.dst = none)
    (h : ∀ γ w, Fin sp W γ w → ∃ w', (execOp (lexi sp γ 0 (l.take m) a0).eval o).run P w = .ok .skip w' ∧ Q .normal (lexi sp γ 0 (l.take m) a0) w') : (Code.region id l.toArray true).wp P Q a0 W := by
  subst hsm
  have hout : ∀ i o, sp.length ≤ i → l[i]? = some o → ∀ j, j < sp.length → dep l i j = true := fun i o' hi ho' j hj => by
    have hil := (List.getElem?_eq_some_iff.1 ho').1
    obtain rfl : i = sp.length := by omega
    exact List.all_eq_true.1 ho j (List.mem_range.2 hj)
  refine wp_region_any hm (run_once hc hp hnt ok (by omega) hout ?_ _ _ (fun _ => 0) a0 W.drew (by simp) (fun i _ => start_no i) start_count (start (below_drewN' (Below.refl _ W) 1)))
  intro listed γ a w fuel hs hall hno hcnt hst
  have hun : Lof listed sp.length = false := hno _ (Nat.le_refl _)
  have hpos := count_unlisted (listed := listed) (i := sp.length) (by omega) hun
  obtain ⟨fuel, rfl⟩ : ∃ f, fuel = f + 1 := ⟨fuel - 1, by omega⟩
  have h2 : ∀ j, dof (l.take sp.length) j = if j < sp.length then dof l j else none := fun j => by
    unfold dof
    rw [List.getElem?_take]
    split <;> rfl
  have hlr : sp.length ∈ Region.ready .any l.toArray listed := by
    rw [mem_ready]
    refine ⟨?_, o, (by rw [List.getElem?_toArray]; exact hlo), fun e he hb => hall _ ((chk_at hc hlo).2.1 e he hb)⟩
    unfold Lof at hun
    have hb : sp.length < listed.size := by omega
    simp [hb] at hun ⊢
    exact hun
  refine ⟨fun h0 => (by rw [h0] at hlr; cases hlr), fun i hi => ?_⟩
  obtain ⟨hun', o', ho', _⟩ := mem_ready.1 hi
  have hol : l[i]? = some o' := by simpa using ho'
  have hil := (List.getElem?_eq_some_iff.1 hol).1
  have him : i = sp.length := by
    by_cases e : i < sp.length
    · have h3 := hall i e
      unfold Lof at h3
      simp [show i < listed.size by omega] at hun' h3
      rw [hun'] at h3
      cases h3
    · omega
  subst him
  rw [hlo] at hol
  obtain rfl : o = o' := by injection hol
  obtain ⟨w', he, hq⟩ := h γ w (hst.fin hf hall)
  rw [← hst.is hc hnt (l.take sp.length) h2 (all_iff hall hno)] at he hq
  unfold wpOp
  rw [show l.toArray[sp.length]? = some o from by rw [List.getElem?_toArray]; exact hlo]
  have hw : Region.wanted o (yielded l.toArray a.tmps) = true := by unfold Region.wanted; rw [(chk_at hc hlo).1]
  simp only [hw, if_true]
  refine .inl ?_
  unfold Oper.wp
  rw [he]
  show wpAny P .any l.toArray Q fuel (listed.setIfInBounds sp.length true) (a.put o.dst undef) w'
  rw [hod]
  refine done_any ?_ hq fuel
  apply List.eq_nil_iff_forall_not_mem.2
  intro i hi
  obtain ⟨hun2, o2, ho2, _⟩ := mem_ready.1 hi
  have hil2 : i < l.length := (List.getElem?_eq_some_iff.1 (show l[i]? = some o2 by simpa using ho2)).1
  have hlt : sp.length < listed.size := by omega
  have : Lof (listed.setIfInBounds sp.length true) i = true := by
    rw [Lof_set hlt]
    by_cases e : i = sp.length
    · rw [e]; exact up_self _ _
    · exact up_of (hall i (by omega))
  unfold Lof at this
  simp [show i < listed.size by omega] at hun2 this
  rw [hun2] at this
  cases this
theorem put_ok {i k : Nat} {o : Oper} {Z C : Array Value} {T : TypeId} (h0 : sp[k]? = some (.new Z T C)) (h : ∀ γ a w, Dp l sp a0 γ i a → w.heap[γ k]? = some (.cells Z T (0, 0)) → ∃ w', (execOp a.eval o).run P w = .ok .skip w' ∧ w'.heap[γ k]? = some (.cells C T (0, 0)) ∧ w.grownBy w' (some (γ k)) ∧ w'.heap.size = w.heap.size) : OkAt P l sp a0 W i o (.put k) := fun γ a w z t c hs D hz => by
  rw [h0] at hs
  cases hs
  exact h γ a w D hz
end
end Go.Proofs.Ytgdimnbdnepbgaa.RO
/- Rows of several numbers: points, and points in extended coordinates. No statement is proved here. -/
namespace Go.Proofs.Ytgdimnbdnepbgaa
open Go.RowKit
set_option linter.unusedVariables false
set_option maxRecDepth 40000
set_option linter.unusedSimpArgs false

def encs : List Nat → List UInt8
  | [] => []
  | n :: l => enc n ++ encs l
theorem encs_len : ∀ l, (encs l).length = 32 * l.length
  | [] => rfl
  | n :: l => by rw [encs, List.length_append, enc_len, encs_len l, List.length_cons]; omega
theorem encs_one (n : Nat) : encs [n] = enc n := List.append_nil _
/-- Several numbers as one value. -/
def vR (l : List Nat) : Value := .agg (bcs (encs l)).toArray
theorem vR_one (n : Nat) : vR [n] = vN n := by unfold vR vN; rw [encs_one]
theorem encs_get : ∀ (l : List Nat) (i n j : Nat), l[i]? = some n → j < 32 → (encs l)[32 * i + j]? = (enc n)[j]?
  | [], i, n, j, h, _ => by simp at h
  | m :: l, 0, n, j, h, hj => by
    rw [List.getElem?_cons_zero] at h
    injection h with h
    subst h
    rw [encs, List.getElem?_append_left (by rw [enc_len]; omega), show 32 * 0 + j = j from by omega]
  | m :: l, i + 1, n, j, h, hj => by
    rw [List.getElem?_cons_succ] at h
    rw [encs, List.getElem?_append_right (by rw [enc_len]; omega), enc_len, show 32 * (i + 1) + j - 32 = 32 * i + j from by omega]
    exact encs_get l i n j h hj
theorem encs_set : ∀ (l : List Nat) (i n : Nat), i < l.length → (encs l).take (32 * i) ++ enc n ++ (encs l).drop (32 * i + 32) = encs (l.set i n)
  | [], i, n, h => absurd h (by simp)
  | m :: l, 0, n, h => by
    rw [List.set_cons_zero, encs, encs, Nat.mul_zero, List.take_zero, List.nil_append, Nat.zero_add, List.drop_append_of_le_length (by rw [enc_len]; omega), List.drop_of_length_le (by rw [enc_len]; omega), List.nil_append]
  | m :: l, i + 1, n, h => by
    have ih := encs_set l i n (by simpa using h)
    rw [List.set_cons_succ, encs, encs, ← ih, show 32 * (i + 1) = 32 + 32 * i from by omega, List.take_append, enc_len, List.take_of_length_le (by rw [enc_len]; omega), show 32 + 32 * i - 32 = 32 * i from by omega, List.drop_append, List.drop_of_length_le (by rw [enc_len]; omega), enc_len, show 32 + 32 * i + 32 - 32 = 32 * i + 32 from by omega]
    simp [List.append_assoc]
/-- Numbers lie in row g. -/
def RAt (w : World) (g : Nat) (l : List Nat) : Prop := ∃ t, w.heap[g]? = some (.cells (bcs (encs l)).toArray t (0, 0))
theorem RAt.lt {w : World} {g : Nat} {l : List Nat} (h : RAt w g l) : g < w.heap.size := by
  obtain ⟨t, ht⟩ := h
  exact (Array.getElem?_eq_some_iff.1 ht).1
theorem RAt.below {w w' : World} {g B : Nat} {l : List Nat} (h : RAt w g l) (hb : Below B w w') (hg : g < B) : RAt w' g l := by
  obtain ⟨t, ht⟩ := h
  exact ⟨t, (hb.block g hg).trans ht⟩
theorem RAt.keep {w w' : World} {g : Nat} {l : List Nat} (h : RAt w g l) (hb : Below w.heap.size w w') : RAt w' g l := h.below hb h.lt
theorem RAt.grown {w w' : World} {g : Nat} {l : List Nat} {row : Option Nat} (h : RAt w g l) (hb : w.grownBy w' row) (hg : some g ≠ row) : RAt w' g l := by
  have := h.lt
  obtain ⟨t, ht⟩ := h
  exact ⟨t, (hb.block g this hg).trans ht⟩
theorem RAt.keeps {G : Nat → Prop} {w w' : World} {g : Nat} {l : List Nat} (h : RAt w g l) (hk : Keeps G w w') (hg : ¬ G g) : RAt w' g l := by
  have := h.lt
  obtain ⟨t, ht⟩ := h
  exact ⟨t, (hk.block g this hg).trans ht⟩
theorem RAt.num {w : World} {g n : Nat} (h : RAt w g [n]) : NAt w g n := by
  obtain ⟨t, ht⟩ := h
  rw [encs_one] at ht
  exact ⟨t, ht⟩
theorem NAt.row {w : World} {g n : Nat} (h : NAt w g n) : RAt w g [n] := by
  obtain ⟨t, ht⟩ := h
  refine ⟨t, ?_⟩
  rw [encs_one]
  exact ht
theorem zrow {w : World} {g k : Nat} {t : TypeId} (h : w.heap[g]? = some (.cells (bcs (List.replicate (32 * k) 0)).toArray t (0, 0))) : RAt w g (List.replicate k 0) := by
  have e : ∀ k, encs (List.replicate k 0) = List.replicate (32 * k) 0 := by
    intro k
    induction k with
    | zero => rfl
    | succ k ih => rw [List.replicate_succ, encs, ih, show 32 * (k + 1) = 32 + 32 * k from by omega, ← List.replicate_append_replicate]; rfl
  rw [← e] at h
  exact ⟨t, h⟩
theorem RAt.cells {w : World} {g : Nat} {l : List Nat} (h : RAt w g l) (i n : Nat) (hn : l[i]? = some n) : ∀ j u, (bcs (enc n))[j]? = some u → w.cell? ⟨g, 32 * i + j, none⟩ = some u := by
  obtain ⟨t, ht⟩ := h
  intro j u hu
  have hj : j < 32 := by
    have := (List.getElem?_eq_some_iff.1 hu).1
    rw [bcs_enc_len] at this
    exact this
  refine row_cells ht (32 * i + j) u ?_
  rw [List.toList_toArray, bcs_get, encs_get l i n j hn hj, ← bcs_get]
  exact hu

theorem exec_loadF {o : Oper} {a : Act} {w : World} (x : Operand) (ho : o.op = .load 23 x) (g i off : Nat) (he : off = 32 * i) (l : List Nat) (n : Nat) (hx : a.eval x = .pointer (some ⟨g, off, none⟩)) (hr : RAt w g l) (hn : l[i]? = some n) : (execOp a.eval o).run Try.prog w = .ok (.value (vN n)) w := by
  subst he
  have hl : (loadCells ⟨g, 32 * i, none⟩ (bcs (enc n)).length).run Try.prog w = .ok (bcs (enc n)).toArray w :=
    run_loadCells_list (P := Try.prog) w ⟨g, 32 * i, none⟩ (bcs (enc n)) (fun j v hv => by
      have hadd : (⟨g, 32 * i, none⟩ : Addr).add j = ⟨g, 32 * i + j, none⟩ := by unfold Addr.add; split <;> simp_all
      rw [hadd]
      exact hr.cells i n hn j v hv)
  have hagg : (isAgg 23).run Try.prog w = .ok true w := by
    unfold isAgg
    rw [Sem.run_bind, run_underlying under23 w]
    rfl
  have hq : ∃ i, Try.prog.info? 23 = some i ∧ i.size = 32 := by
    have := size23
    cases h : Try.prog.info? 23 with
    | none => rw [h] at this; simp at this
    | some i => exact ⟨i, rfl, by rw [h] at this; simpa using this⟩
  obtain ⟨k, hi, hs⟩ := hq
  have hrun : (Instr.loadAt 23 (.pointer (some ⟨g, 32 * i, none⟩))).run Try.prog w = .ok (vN n) w := by
    rw [bcs_enc_len] at hl
    simp [Instr.loadAt, Instr.sureAddr, loadVar, Sem.run_bind, hagg, sizeOf, typeInfo, hi, hs, hl]
    rfl
  unfold execOp
  simp only [ho, hx, Sem.run_bind, Sem.run_pure, Result.andThen_ok, hrun]
theorem size35 : (Try.prog.info? 35).map (·.size) = some 64 := by kernel_rfl
theorem size76 : (Try.prog.info? 76).map (·.size) = some 128 := by kernel_rfl
theorem zero35 (w : World) : (zeroValue 35).run Try.prog w = .ok (.agg (zbs 64)) w := by kernel_rfl
theorem zero76 (w : World) : (zeroValue 76).run Try.prog w = .ok (.agg (zbs 128)) w := by kernel_rfl
theorem exec_loadP {o : Oper} {a : Act} {w : World} (x : Operand) (ho : o.op = .load 35 x) (g m n : Nat) (hx : a.eval x = .pointer (some ⟨g, 0, none⟩)) (hr : RAt w g [m, n]) : (execOp a.eval o).run Try.prog w = .ok (.value (vR [m, n])) w := by
  obtain ⟨t, ht⟩ := hr
  have hlen : (bcs (encs [m, n])).length = 64 := by rw [bcs_len, encs_len]; rfl
  have hl : (loadCells ⟨g, 0, none⟩ (bcs (encs [m, n])).length).run Try.prog w = .ok (bcs (encs [m, n])).toArray w :=
    run_loadCells_list (P := Try.prog) w ⟨g, 0, none⟩ (bcs (encs [m, n])) (fun j v hv => by
      have hadd : (⟨g, 0, none⟩ : Addr).add j = ⟨g, j, none⟩ := by unfold Addr.add; split <;> simp_all
      rw [hadd]
      exact row_cells ht j v (by simpa using hv))
  have hagg : (isAgg 35).run Try.prog w = .ok true w := by
    unfold isAgg
    rw [Sem.run_bind, run_underlying Try.underlying35 w]
    rfl
  have hq : ∃ i, Try.prog.info? 35 = some i ∧ i.size = 64 := by
    have := size35
    cases h : Try.prog.info? 35 with
    | none => rw [h] at this; simp at this
    | some i => exact ⟨i, rfl, by rw [h] at this; simpa using this⟩
  obtain ⟨k, hi, hs⟩ := hq
  have hrun : (Instr.loadAt 35 (.pointer (some ⟨g, 0, none⟩))).run Try.prog w = .ok (vR [m, n]) w := by
    rw [hlen] at hl
    simp [Instr.loadAt, Instr.sureAddr, loadVar, Sem.run_bind, hagg, sizeOf, typeInfo, hi, hs, hl]
    rfl
  unfold execOp
  simp only [ho, hx, Sem.run_bind, Sem.run_pure, Result.andThen_ok, hrun]
theorem exec_nil {P : Program} {o : Oper} {a : Act} {w : World} (x : Operand) (ho : o.op = .nilCheck x) (A : Addr) (hx : a.eval x = .pointer (some A)) : (execOp a.eval o).run P w = .ok (.value (.pointer (some A))) w := by
  unfold execOp
  simp only [ho, hx, Sem.run_pure]
theorem exec_field {o : Oper} {a : Act} {w : World} (t : TypeId) (x : Operand) (i : Nat) (ho : o.op = .fieldAddr t x i) (g off : Nat) (hx : a.eval x = .pointer (some ⟨g, 0, none⟩)) (hr : ∀ w, (Instr.fieldAt t (.pointer (some ⟨g, 0, none⟩)) i).run Try.prog w = .ok (.pointer (some ⟨g, off, none⟩)) w) : (execOp a.eval o).run Try.prog w = .ok (.value (.pointer (some ⟨g, off, none⟩))) w := by
  unfold execOp
  simp only [ho, hx, Sem.run_bind, Sem.run_pure, Result.andThen_ok, hr w]
theorem fld35_0 (g : Nat) (w : World) : (Instr.fieldAt 35 (.pointer (some ⟨g, 0, none⟩)) 0).run Try.prog w = .ok (.pointer (some ⟨g, 0, none⟩)) w := by kernel_rfl
theorem fld35_1 (g : Nat) (w : World) : (Instr.fieldAt 35 (.pointer (some ⟨g, 0, none⟩)) 1).run Try.prog w = .ok (.pointer (some ⟨g, 32, none⟩)) w := by kernel_rfl
theorem fld76_0 (g : Nat) (w : World) : (Instr.fieldAt 76 (.pointer (some ⟨g, 0, none⟩)) 0).run Try.prog w = .ok (.pointer (some ⟨g, 0, none⟩)) w := by kernel_rfl
theorem fld76_1 (g : Nat) (w : World) : (Instr.fieldAt 76 (.pointer (some ⟨g, 0, none⟩)) 1).run Try.prog w = .ok (.pointer (some ⟨g, 32, none⟩)) w := by kernel_rfl
theorem fld76_2 (g : Nat) (w : World) : (Instr.fieldAt 76 (.pointer (some ⟨g, 0, none⟩)) 2).run Try.prog w = .ok (.pointer (some ⟨g, 64, none⟩)) w := by kernel_rfl
theorem fld76_3 (g : Nat) (w : World) : (Instr.fieldAt 76 (.pointer (some ⟨g, 0, none⟩)) 3).run Try.prog w = .ok (.pointer (some ⟨g, 96, none⟩)) w := by kernel_rfl
theorem run_build35 (m n : Nat) (w : World) : (Instr.build 35 #[(0, vN m), (1, vN n)]).run Try.prog w = .ok (vR [m, n]) w := by kernel_rfl
theorem exec_build35 {o : Oper} {a : Act} {w : World} (x y : Operand) (m n : Nat) (ho : o.op = .build 35 #[(0, x), (1, y)]) (hx : a.eval x = vN m) (hy : a.eval y = vN n) : (execOp a.eval o).run Try.prog w = .ok (.value (vR [m, n])) w := by
  unfold execOp
  simp only [ho, List.map_toArray, List.map_cons, List.map_nil, Sem.run_bind, Sem.run_pure, hx, hy]
  rw [run_build35 m n w]
  rfl
/-- A number is stored into a row of numbers. -/
theorem exec_storeF {o : Oper} {a : Act} {w : World} (p x : Operand) (ho : o.op = .store 23 p x) (g i off : Nat) (he : off = 32 * i) (l : List Nat) (n : Nat) (hp : a.eval p = .pointer (some ⟨g, off, none⟩)) (hx : a.eval x = vN n) (hr : RAt w g l) (hi : i < l.length) :
    ∃ w', (execOp a.eval o).run Try.prog w = .ok .skip w' ∧ RAt w' g (l.set i n) ∧ w.grownBy w' (some g) ∧ w'.heap.size = w.heap.size := by
  subst he
  obtain ⟨t, ht⟩ := hr
  have hq : ∃ i, Try.prog.info? 23 = some i ∧ i.size = 32 := by
    have := size23
    cases h : Try.prog.info? 23 with
    | none => rw [h] at this; simp at this
    | some i => exact ⟨i, rfl, by rw [h] at this; simpa using this⟩
  obtain ⟨k, hk, hs⟩ := hq
  have hst := run_storeCells_at Try.prog g (32 * i) t (bcs (enc n)) 0 (bcs (encs l)).toArray w ht (by rw [List.size_toArray, bcs_len, bcs_len, encs_len, enc_len]; omega) (bcs_one _)
  simp only [Nat.add_zero] at hst
  have e : (((bcs (encs l)).toArray.toList.take (32 * i) ++ bcs (enc n) ++ (bcs (encs l)).toArray.toList.drop (32 * i + (bcs (enc n)).length)).toArray) = (bcs (encs (l.set i n))).toArray := by
    rw [bcs_enc_len, ← encs_set l i n hi, bcs_append, bcs_append]
    simp [bcs]
  rw [e] at hst
  have hrun : (Instr.storeAt 23 (.pointer (some ⟨g, 32 * i, none⟩)) (vN n)).run Try.prog w = .ok () (w.setRow g (bcs (encs (l.set i n))).toArray) := by
    have hc : (vN n).cells.size = 32 := by show (bcs (enc n)).toArray.size = 32; rw [List.size_toArray, bcs_enc_len]
    have hc2 : (vN n).cells.toList = bcs (enc n) := rfl
    simp [Instr.storeAt, Instr.sureAddr, storeVar, sizeOf, typeInfo, hk, hs, hc, hc2, hst]
  refine ⟨_, ?_, ⟨t, setRow_heap w g _ _ t _ ht⟩, setRow_grown w g _, by simp⟩
  unfold execOp
  simp only [ho, hp, hx, Sem.run_bind, Sem.run_pure, Result.andThen_ok, hrun]
theorem exec_storeP {o : Oper} {a : Act} {w : World} (p x : Operand) (ho : o.op = .store 35 p x) (g : Nat) (l : List Nat) (m n : Nat) (hp : a.eval p = .pointer (some ⟨g, 0, none⟩)) (hx : a.eval x = vR [m, n]) (hr : RAt w g l) (hl : l.length = 2) :
    ∃ w', (execOp a.eval o).run Try.prog w = .ok .skip w' ∧ RAt w' g [m, n] ∧ w.grownBy w' (some g) ∧ w'.heap.size = w.heap.size := by
  obtain ⟨t, ht⟩ := hr
  have hq : ∃ i, Try.prog.info? 35 = some i ∧ i.size = 64 := by
    have := size35
    cases h : Try.prog.info? 35 with
    | none => rw [h] at this; simp at this
    | some i => exact ⟨i, rfl, by rw [h] at this; simpa using this⟩
  obtain ⟨k, hk, hs⟩ := hq
  have hlen : (bcs (encs [m, n])).length = 64 := by rw [bcs_len, encs_len]; rfl
  have hlen2 : (bcs (encs l)).length = 64 := by rw [bcs_len, encs_len, hl]
  have hst := run_storeCells_at Try.prog g 0 t (bcs (encs [m, n])) 0 (bcs (encs l)).toArray w ht (by rw [List.size_toArray, hlen, hlen2]; omega) (bcs_one _)
  simp only [Nat.add_zero] at hst
  have e : (((bcs (encs l)).toArray.toList.take 0 ++ bcs (encs [m, n]) ++ (bcs (encs l)).toArray.toList.drop (0 + (bcs (encs [m, n])).length)).toArray) = (bcs (encs [m, n])).toArray := by
    rw [hlen, List.drop_of_length_le (by simp [hlen2])]
    simp
  rw [e] at hst
  have hrun : (Instr.storeAt 35 (.pointer (some ⟨g, 0, none⟩)) (vR [m, n])).run Try.prog w = .ok () (w.setRow g (bcs (encs [m, n])).toArray) := by
    have hc : (vR [m, n]).cells.size = 64 := by show (bcs (encs [m, n])).toArray.size = 64; rw [List.size_toArray, hlen]
    have hc2 : (vR [m, n]).cells.toList = bcs (encs [m, n]) := rfl
    simp [Instr.storeAt, Instr.sureAddr, storeVar, sizeOf, typeInfo, hk, hs, hc, hc2, hst]
  refine ⟨_, ?_, ⟨t, setRow_heap w g _ _ t _ ht⟩, setRow_grown w g _, by simp⟩
  unfold execOp
  simp only [ho, hp, hx, Sem.run_bind, Sem.run_pure, Result.andThen_ok, hrun]

theorem wpList_storeF {ops : Array Oper} {rest : List Oper} {o : Oper} {a : Act} {w : World} {Q : Exit → Act → World → Prop} (hgd : Region.wanted o (yielded ops a.tmps) = true) (p x : Operand) (ho : o.op = .store 23 p x) (g i off : Nat) (he : off = 32 * i) (l : List Nat) (n : Nat) (hp : a.eval p = .pointer (some ⟨g, off, none⟩)) (hx : a.eval x = vN n) (hr : RAt w g l) (hi : i < l.length)
    (h : ∀ w', RAt w' g (l.set i n) → w.grownBy w' (some g) → w'.heap.size = w.heap.size → wpList Try.prog ops Q rest (a.put o.dst undef) w') : wpList Try.prog ops Q (o :: rest) a w := by
  refine wpList_want hgd fun K hK => ?_
  obtain ⟨w', h1, h2, h3, h4⟩ := exec_storeF (a := a) p x ho g i off he l n hp hx hr hi
  unfold Oper.wp
  rw [h1]
  exact hK _ _ (h w' h2 h3 h4)
theorem wpList_storeP {ops : Array Oper} {rest : List Oper} {o : Oper} {a : Act} {w : World} {Q : Exit → Act → World → Prop} (hgd : Region.wanted o (yielded ops a.tmps) = true) (p x : Operand) (ho : o.op = .store 35 p x) (g : Nat) (l : List Nat) (m n : Nat) (hp : a.eval p = .pointer (some ⟨g, 0, none⟩)) (hx : a.eval x = vR [m, n]) (hr : RAt w g l) (hl : l.length = 2)
    (h : ∀ w', RAt w' g [m, n] → w.grownBy w' (some g) → w'.heap.size = w.heap.size → wpList Try.prog ops Q rest (a.put o.dst undef) w') : wpList Try.prog ops Q (o :: rest) a w := by
  refine wpList_want hgd fun K hK => ?_
  obtain ⟨w', h1, h2, h3, h4⟩ := exec_storeP (a := a) p x ho g l m n hp hx hr hl
  unfold Oper.wp
  rw [h1]
  exact hK _ _ (h w' h2 h3 h4)
section
variable {md : Region.Mode} {ops : Array Oper} {Q : Exit → Act → World → Prop} {W : Nat → Bool} {lo fuel : Nat} {listed : Array Bool} {a : Act} {w : World}
theorem storeW_F {i : Nat} {oi : Oper} (hi : ops[i]? = some oi) (hr : Region.ready md ops listed = [i]) (hw : Region.wanted oi (yielded ops a.tmps) = true)
    (p x : Operand) (ho : oi.op = .store 23 p x) (g k off : Nat) (he : off = 32 * k) (l : List Nat) (n : Nat) (hp : a.eval p = .pointer (some ⟨g, off, none⟩)) (hx : a.eval x = vN n) (hrow : RAt w g l) (hk : k < l.length) (hW : W i = true)
    (h : ∀ w', RAt w' g (l.set k n) → w.grownBy w' (some g) → w'.heap.size = w.heap.size → wpAnyW Try.prog md ops Q W lo fuel (listed.setIfInBounds i true) (a.put oi.dst undef) w') : wpAnyW Try.prog md ops Q W lo (fuel + 1) listed a w := by
  obtain ⟨w', h2, h3, h4, h5⟩ := exec_storeF (a := a) (w := w) (o := oi) p x ho g k off he l n hp hx hrow hk
  exact storeW w' hi hr hw h2 (fun h => by rw [hW] at h; cases h) (h w' h3 h4 h5)
theorem storeW_P {i : Nat} {oi : Oper} (hi : ops[i]? = some oi) (hr : Region.ready md ops listed = [i]) (hw : Region.wanted oi (yielded ops a.tmps) = true)
    (p x : Operand) (ho : oi.op = .store 35 p x) (g : Nat) (l : List Nat) (m n : Nat) (hp : a.eval p = .pointer (some ⟨g, 0, none⟩)) (hx : a.eval x = vR [m, n]) (hrow : RAt w g l) (hl : l.length = 2) (hW : W i = true)
    (h : ∀ w', RAt w' g [m, n] → w.grownBy w' (some g) → w'.heap.size = w.heap.size → wpAnyW Try.prog md ops Q W lo fuel (listed.setIfInBounds i true) (a.put oi.dst undef) w') : wpAnyW Try.prog md ops Q W lo (fuel + 1) listed a w := by
  obtain ⟨w', h2, h3, h4, h5⟩ := exec_storeP (a := a) (w := w) (o := oi) p x ho g l m n hp hx hrow hl
  exact storeW w' hi hr hw h2 (fun h => by rw [hW] at h; cases h) (h w' h3 h4 h5)
end
theorem Keeps.newrow {G : Nat → Prop} {w x y : World} {r : Nat} (h : Keeps G w x) (hg : x.grownBy y (some r)) (hr : w.heap.size ≤ r) : Keeps G w y :=
  ⟨hg.os.trans h.os, hg.tape.trans h.tape, hg.output.trans h.output, Nat.le_trans h.size hg.size, fun k hk hn => (hg.block k (Nat.lt_of_lt_of_le hk h.size) (by simp; omega)).trans (h.block k hk hn)⟩
theorem Keeps.ownrow {w x y : World} {g : Nat} (h : Keeps (· = g) w x) (hg : x.grownBy y (some g)) : Keeps (· = g) w y :=
  h.trans (Keeps.of_grown hg (fun r hr => by injection hr with hr; exact hr.symm))
theorem Keeps.call {G : Nat → Prop} {w x y : World} (h : Keeps G w x) (hb : Below x.heap.size x y) : Keeps G w y := h.trans (Keeps.of_below hb)
theorem Keeps.alloc {G : Nat → Prop} {w x y : World} (h : Keeps G w x) (hg : x.grownBy y none) : Keeps G w y := h.trans (Keeps.of_grown hg (fun r hr => by cases hr))
theorem drew_rel {w x : World} {G : Nat → Prop} (h : Keeps G w x) : Keeps G w x.drew := h.trans (Keeps.drew _ _)
/-- What a method leaves that changes the numbers at g. -/
def SetsR (g : Nat) (l : List Nat) (w : World) (e : Ending) (w' : World) : Prop := e = .returned (.tuple #[]) ∧ RAt w' g l ∧ Keeps (· = g) w w'

/-! Short forms of the steps that the drawn regions take again and again. -/
theorem zA {α : Type _} (l : List α) (i : Nat) (v : α) : l.toArray.setIfInBounds i v = (l.set i v).toArray := by simp only [List.setIfInBounds_toArray]
theorem zB {α : Type _} (x v : α) (l : List α) : (x :: l).set 0 v = v :: l := rfl
theorem zC {α : Type _} (x v : α) (l : List α) (n : Nat) : (x :: l).set (n + 1) v = x :: l.set n v := rfl
theorem zM {a b : Nat} {l : List Nat} : (a ∈ b :: l) = (a = b ∨ a ∈ l) := by simp
theorem zN {a : Nat} : (a ∈ ([] : List Nat)) = False := by simp
theorem lT {n B : Nat} {x y : World} (h : Hid (n ≤ x.heap.size)) (k : Below B x y) : Hid (n ≤ y.heap.size) := Lib.hid (Nat.le_trans h.out k.size)
theorem lG {n : Nat} {x y : World} {r : Option Nat} (h : Hid (n ≤ x.heap.size)) (k : x.grownBy y r) : Hid (n ≤ y.heap.size) := Lib.hid (Nat.le_trans h.out k.size)
theorem hKq {x y : World} {g : Nat} {l : List Nat} (h : Hid (RAt x g l)) (k : Below x.heap.size x y) : Hid (RAt y g l) := Lib.hid (h.out.keep k)
theorem hGq {x y : World} {g c a b : Nat} {l : List Nat} (h : Hid (RAt x g l)) (k : x.grownBy y (some c)) (n : Hid (a ≠ b)) (e : (g = a ∧ c = b) ∨ (g = b ∧ c = a) := by first | exact .inl ⟨rfl, rfl⟩ | exact .inr ⟨rfl, rfl⟩) : Hid (RAt y g l) :=
  Lib.hid (h.out.grown k (by have := n.out; intro q; injection q with q; omega))
theorem fNq {G : Nat → Prop} {w x y : World} {r b : Nat} (h : Hid (Keeps G w x)) (k : x.grownBy y (some r)) (p : Hid (b ≤ r)) (q : Hid (w.heap.size ≤ b)) : Hid (Keeps G w y) := Lib.hid (h.out.newrow k (Nat.le_trans q.out p.out))
theorem fCq {G : Nat → Prop} {w x y : World} (h : Hid (Keeps G w x)) (k : Below x.heap.size x y) : Hid (Keeps G w y) := Lib.hid (h.out.call k)
theorem fBq {w x y : World} {r b : Nat} (h : Hid (Below w.heap.size w x)) (k : x.grownBy y (some r)) (p : Hid (b ≤ r)) (q : Hid (w.heap.size ≤ b)) : Hid (Below w.heap.size w y) :=
  Lib.hid (h.out.grown k h.out.size (fun s hs => by injection hs with hs; have := p.out; have := q.out; omega))
theorem fTq {w x y : World} (h : Hid (Below w.heap.size w x)) (k : Below x.heap.size x y) : Hid (Below w.heap.size w y) := Lib.hid (h.out.trans (k.mono h.out.size))
theorem zrq {w : World} {g : Nat} {t : TypeId} (h : w.heap[g]? = some (.cells (bcs (List.replicate (32 * 1) 0)).toArray t (0, 0))) : Hid (RAt w g [0]) := Lib.hid (zrow (k := 1) h)
theorem nXq {x : World} {g c : Nat} {l : List Nat} (h : Hid (RAt x g l)) (e : c = x.heap.size) : Hid (g ≠ c) := Lib.hid (by have := h.out.lt; omega)
theorem gE {x : World} {c n : Nat} (e : c = x.heap.size) (h : Hid (n ≤ x.heap.size)) : Hid (n ≤ c) := Lib.hid (by rw [e]; exact h.out)
theorem dRq {x y : World} {g : Nat} {l : List Nat} (e : y = x.drew) (h : Hid (RAt x g l)) : Hid (RAt y g l) := Lib.hid (by rw [e]; exact h.out)
theorem dLq {x y : World} (e : y = x.drew) : Hid (x.heap.size ≤ y.heap.size) := Lib.hid (by rw [e]; exact Nat.le_refl _)
theorem dFq {G : Nat → Prop} {w x y : World} (e : y = x.drew) (h : Hid (Keeps G w x)) : Hid (Keeps G w y) := Lib.hid (by rw [e]; exact drew_rel h.out)
theorem lR {x : World} {g : Nat} {l : List Nat} (h : Hid (RAt x g l)) : Hid (g < x.heap.size) := Lib.hid h.out.lt
theorem tA {ops : Array Oper} {Q : Exit → Act → World → Prop} {md : Region.Mode} {W : Nat → Bool} {lo fuel : Nat} {listed : Array Bool} {a : Act} {w : World} {i : Nat} {oi : Oper}
    (h : ∃ v, (∀ w', (execOp a.eval oi).run Try.prog w' = .ok (.value v) w') ∧ wpAnyW Try.prog md ops Q W lo fuel (listed.setIfInBounds i true) (a.put oi.dst v) w)
    (hi : ops[i]? = some oi := by rfl) (hs : Region.noSelect ops = true := by kernel_rfl) (hf : Region.free md ops listed i = true := by kernel_rfl) (hr : (Region.ready md ops listed).contains i = true := by kernel_rfl)
    (hQ : ∀ v c a w, Q (.panic c) (a.put oi.dst v) w → Q (.panic c) a w := by exact fun _ _ _ _ h => nomatch h.1) (hw : Region.wanted oi (yielded ops a.tmps) = true := by rfl) : wpAnyW Try.prog md ops Q W lo (fuel + 1) listed a w :=
  takeAE hi hs hf hr hQ hw h
end Go.Proofs.Ytgdimnbdnepbgaa
