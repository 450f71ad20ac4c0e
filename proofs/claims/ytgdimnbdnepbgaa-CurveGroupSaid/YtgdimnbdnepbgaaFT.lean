/- The field's residue, power and small numbers. No statement is proved here. -/
import Derived.Test.YtgdimnbdnepbgaaFS
namespace Go.Proofs.Ytgdimnbdnepbgaa
open Go.RowKit
set_option linter.unusedVariables false
set_option maxRecDepth 40000

set_option maxHeartbeats 1000000 in
theorem Rest_list (la : List UInt8) (n : Nat) (w : World) (ha : Hid (la.length = 32)) (HV : Hid (val5 (rdw la) % 57896044618658097711785492504343953926634992332820282019728792003956564819949 = n)) :
    Calls Try.prog 13 #[.agg (bcs la).toArray] w (Gives (vN n) w) := by
  have HB : Hid (Bnd 9223372036854775808 (rdw la)) := ⟨(rdw_bnd la).1, fun i hi => Nat.lt_of_lt_of_le ((rdw_bnd la).2 i hi) (by decide)⟩
  go_enter Try.func13, Try.ntmps13
  go_wp2_with (first | ((with_reducible show wpList _ _ _ (⟨some 1, .box 23 (.tmp 0), _, _, _, _⟩ :: _) _ _); go_must (refine wpList_box_row rfl 23 (.tmp 0) rfl (bcs la).toArray rfl ?_; intro w1 h1 z1 g1; have H1 := Lib.hid h1; have Z1 := Lib.hid z1; have G1 := Lib.hid g1; clear h1 z1 g1)) | ((with_reducible show wpList _ _ _ (⟨some 2, .alloc 23, _, _, _, _⟩ :: _) _ _); go_must (refine wpList_alloc_row rfl 23 rfl (.agg (zbs 32)) zero23 ?_; intro w2 h1 z1 g1; have H2 := Lib.hid h1; have Z2 := Lib.hid z1; have G2 := Lib.hid g1; clear h1 z1 g1)) | ((with_reducible show wpList _ _ _ (⟨some 3, .alloc 60, _, _, _, _⟩ :: _) _ _); go_must (refine wpList_alloc_row rfl 60 rfl (.agg (zw 5)) zero60 ?_; intro w3 h1 z1 g1; have H3 := Lib.hid h1; have Z3 := Lib.hid z1; have G3 := Lib.hid g1; clear h1 z1 g1)))
  have S : Hid (M1 w la [0, 0, 0, 0, 0] w3) := by
    have b1 := below_of_grownBy G1.out
    have b2 := below_of_grownBy G2.out
    have b3 := below_of_grownBy G3.out
    have h2 := H2.out
    have h3 := H3.out
    have z2 := Z2.out
    rw [Z1.out] at h2 b2 z2
    rw [z2] at h3 b3
    refine ⟨⟨ha.out, 23, ?_⟩, ?_, ⟨rfl, 60, h3⟩, ?_⟩
    · exact (b3.block _ (by omega)).trans ((b2.block _ (by omega)).trans H1.out)
    · exact (b3.block _ (by omega)).trans h2
    · exact b1.trans ((b2.mono (by omega)).trans (b3.mono (by omega)))
  rw [show w2.heap.size = w.heap.size + 2 from by rw [Z2.out, Z1.out], show w1.heap.size = w.heap.size + 1 from by rw [Z1.out]]
  clear H1 Z1 G1 H2 Z2 G2 H3 Z3 G3 ha
  refine (read_any (w.heap.size + 2) w.heap.size _ la _ S.out.v S.out.a).mono ?_
  rintro e x1 ⟨rfl, hr, hk⟩
  have S1 := Lib.hid (S.out.setV hr hk)
  clear hr hk S
  go_wp2_with fail
  refine (number_any (w.heap.size + 2) (rdw la) _ S1.out.v HB.out).mono ?_
  rintro e x4 ⟨rfl, hk⟩
  rw [HV.out]
  have HRow : Hid (x4.heap[w.heap.size + 1]? = some (.cells (zbs 32) 23 (0, 0))) := (hk.block _ (Array.getElem?_eq_some_iff.1 S1.out.r).1 (by show ¬ _ = _; omega)).trans S1.out.r
  have HBel : Hid (Below w.heap.size w x4) := S1.out.bel.trans (hk.below S1.out.bel.size (fun k hlt => by show ¬ _ = _; omega))
  clear hk S1 HV HB
  obtain ⟨L, hL⟩ : ∃ L, L = enc n := ⟨_, rfl⟩
  have HL : Hid (L.length = 32) := by rw [hL]; exact enc_len n
  have HLE : Hid (Value.agg (bcs L).toArray = vN n) := by rw [hL]; rfl
  rw [← hL]
  clear hL
  go_wp2_with ((with_reducible show wpList _ _ _ (⟨none, .store 23 (.tmp 2) (.tmp 5), _, _, _, _⟩ :: _) _ _); go_must (refine wpList_store_all rfl 23 (.tmp 2) (.tmp 5) rfl (w.heap.size + 1) rfl (bcs L).toArray rfl 23 _ HRow.out (by rw [List.size_toArray, bcs_len, HL.out]; exact size23) (by rw [List.size_toArray, bcs_len, HL.out]; rfl) (bcs_one _) ?_; intro x5 hh hg hz; have HH := Lib.hid hh; have HG := Lib.hid hg; clear hh hg hz))
  refine bodyPost_ret (results_cell_row rfl _ _ (w.heap.size + 1) 23 (bcs L).toArray _ _ rfl HH.out under23 rfl (by rw [List.size_toArray, bcs_len, HL.out]; exact size23)) rfl ?_
  exact ⟨by rw [HLE.out], HBel.out.grown HG.out HBel.out.size (fun r hr => by injection hr; omega)⟩

/-- The memory of Pow. -/
structure M3 (w : World) (la lb : List UInt8) (ov : List Nat) (w' : World) : Prop where
  a : NumAt w' w.heap.size la
  b : NumAt w' (w.heap.size + 1) lb
  r : w'.heap[w.heap.size + 2]? = some (.cells (zbs 32) 23 (0, 0))
  v : WAt w' (w.heap.size + 3) ov
  bel : Below w.heap.size w w'
theorem M3.setV {w : World} {la lb : List UInt8} {ov o : List Nat} {w' w'' : World} (h : M3 w la lb ov w') (hv : WAt w'' (w.heap.size + 3) o) (hk : Keeps (· = w.heap.size + 3) w' w'') : M3 w la lb o w'' :=
  ⟨h.a.keeps hk (by show ¬ _ = _; omega), h.b.keeps hk (by show ¬ _ = _; omega), (hk.block _ (Array.getElem?_eq_some_iff.1 h.r).1 (by show ¬ _ = _; omega)).trans h.r, hv, h.bel.trans (hk.below h.bel.size (fun k hlt => by show ¬ _ = _; omega))⟩

set_option maxHeartbeats 1000000 in
theorem Pow_core (la lb : List UInt8) (a n : Nat) (w : World) (ha : Hid (la.length = 32)) (hb : Hid (lb.length = 32)) (HA : Hid (nv la = a)) (HV : Hid (a ^ nv lb % 57896044618658097711785492504343953926634992332820282019728792003956564819949 = n)) :
    Calls Try.prog 27 #[.agg (bcs la).toArray, .agg (bcs lb).toArray] w (Gives (vN n) w) := by
  go_enter Try.func27, Try.ntmps27
  go_wp2_with (first | ((with_reducible show wpList _ _ _ (⟨some 2, .box 23 (.tmp 0), _, _, _, _⟩ :: _) _ _); go_must (refine wpList_box_row rfl 23 (.tmp 0) rfl (bcs la).toArray rfl ?_; intro w1 h1 z1 g1; have H1 := Lib.hid h1; have Z1 := Lib.hid z1; have G1 := Lib.hid g1; clear h1 z1 g1)) | ((with_reducible show wpList _ _ _ (⟨some 3, .box 23 (.tmp 1), _, _, _, _⟩ :: _) _ _); go_must (refine wpList_box_row rfl 23 (.tmp 1) rfl (bcs lb).toArray rfl ?_; intro w2 h1 z1 g1; have H2 := Lib.hid h1; have Z2 := Lib.hid z1; have G2 := Lib.hid g1; clear h1 z1 g1)) | ((with_reducible show wpList _ _ _ (⟨some 4, .alloc 23, _, _, _, _⟩ :: _) _ _); go_must (refine wpList_alloc_row rfl 23 rfl (.agg (zbs 32)) zero23 ?_; intro w3 h1 z1 g1; have H3 := Lib.hid h1; have Z3 := Lib.hid z1; have G3 := Lib.hid g1; clear h1 z1 g1)) | ((with_reducible show wpList _ _ _ (⟨some 5, .alloc 60, _, _, _, _⟩ :: _) _ _); go_must (refine wpList_alloc_row rfl 60 rfl (.agg (zw 5)) zero60 ?_; intro w4 h1 z1 g1; have H4 := Lib.hid h1; have Z4 := Lib.hid z1; have G4 := Lib.hid g1; clear h1 z1 g1)))
  have S : Hid (M3 w la lb [0, 0, 0, 0, 0] w4) := by
    have b1 := below_of_grownBy G1.out
    have b2 := below_of_grownBy G2.out
    have b3 := below_of_grownBy G3.out
    have b4 := below_of_grownBy G4.out
    have h2 := H2.out
    have h3 := H3.out
    have h4 := H4.out
    have z2 := Z2.out
    have z3 := Z3.out
    rw [Z1.out] at h2 b2 z2
    rw [z2] at h3 b3 z3
    rw [z3] at h4 b4
    refine ⟨⟨ha.out, 23, ?_⟩, ⟨hb.out, 23, ?_⟩, ?_, ⟨rfl, 60, h4⟩, ?_⟩
    · exact (b4.block _ (by omega)).trans ((b3.block _ (by omega)).trans ((b2.block _ (by omega)).trans H1.out))
    · exact (b4.block _ (by omega)).trans ((b3.block _ (by omega)).trans h2)
    · exact (b4.block _ (by omega)).trans h3
    · exact b1.trans ((b2.mono (by omega)).trans ((b3.mono (by omega)).trans (b4.mono (by omega))))
  rw [show w3.heap.size = w.heap.size + 3 from by rw [Z3.out, Z2.out, Z1.out], show w2.heap.size = w.heap.size + 2 from by rw [Z2.out, Z1.out], show w1.heap.size = w.heap.size + 1 from by rw [Z1.out]]
  clear H1 Z1 G1 H2 Z2 G2 H3 Z3 G3 H4 Z4 G4 ha hb
  refine (read_any (w.heap.size + 3) w.heap.size _ la _ S.out.v S.out.a).mono ?_
  rintro e x1 ⟨rfl, hr, hk⟩
  have S1 := Lib.hid (S.out.setV hr hk)
  clear hr hk S
  go_wp2_with fail
  refine (pow_any (w.heap.size + 3) (w.heap.size + 3) (w.heap.size + 1) _ (rdw la) lb a _ S1.out.v S1.out.v S1.out.b (rdw_bnd la) (by rw [rdw_val, HA.out])).mono ?_
  rintro e x2 ⟨rfl, r, hr, hb, hv, hk⟩
  have S2 := Lib.hid (S1.out.setV hr hk)
  have HB : Hid (Bnd 9223372036854775808 r) := ⟨hb.1, fun i hi => Nat.lt_of_lt_of_le (hb.2 i hi) (by decide)⟩
  have HN := Lib.hid (hv.trans HV.out)
  clear hr hk S1 hb hv HV HA
  go_wp2_with fail
  refine (number_any (w.heap.size + 3) r _ S2.out.v HB.out).mono ?_
  rintro e x4 ⟨rfl, hk⟩
  rw [HN.out]
  have HRow : Hid (x4.heap[w.heap.size + 2]? = some (.cells (zbs 32) 23 (0, 0))) := (hk.block _ (Array.getElem?_eq_some_iff.1 S2.out.r).1 (by show ¬ _ = _; omega)).trans S2.out.r
  have HBel : Hid (Below w.heap.size w x4) := S2.out.bel.trans (hk.below S2.out.bel.size (fun k hlt => by show ¬ _ = _; omega))
  clear hk S2 HN HB
  obtain ⟨L, hL⟩ : ∃ L, L = enc n := ⟨_, rfl⟩
  have HL : Hid (L.length = 32) := by rw [hL]; exact enc_len n
  have HLE : Hid (Value.agg (bcs L).toArray = vN n) := by rw [hL]; rfl
  rw [← hL]
  clear hL
  go_wp2_with ((with_reducible show wpList _ _ _ (⟨none, .store 23 (.tmp 4) (.tmp 8), _, _, _, _⟩ :: _) _ _); go_must (refine wpList_store_all rfl 23 (.tmp 4) (.tmp 8) rfl (w.heap.size + 2) rfl (bcs L).toArray rfl 23 _ HRow.out (by rw [List.size_toArray, bcs_len, HL.out]; exact size23) (by rw [List.size_toArray, bcs_len, HL.out]; rfl) (bcs_one _) ?_; intro x5 hh hg hz; have HH := Lib.hid hh; have HG := Lib.hid hg; clear hh hg hz))
  refine bodyPost_ret (results_cell_row rfl _ _ (w.heap.size + 2) 23 (bcs L).toArray _ _ rfl HH.out under23 rfl (by rw [List.size_toArray, bcs_len, HL.out]; exact size23)) rfl ?_
  exact ⟨by rw [HLE.out], HBel.out.grown HG.out HBel.out.size (fun r hr => by injection hr; omega)⟩

theorem put_of (x : Nat) (h : x < 18446744073709551616) : put8 (List.replicate 32 0) 0 x = enc x := by
  unfold enc
  rw [Nat.mod_eq_of_lt h, show x / 18446744073709551616 % 18446744073709551616 = 0 from by omega, show x / 340282366920938463463374607431768211456 % 18446744073709551616 = 0 from by omega, show x / 6277101735386680763835789423207666416102355444464034512896 % 18446744073709551616 = 0 from by omega]
  rfl

set_option maxHeartbeats 1000000 in
theorem Of_core (x n : Nat) (w : World) (HP : Hid (put8 (List.replicate 32 0) 0 x = enc n)) : Calls Try.prog 17 #[.int .u64 x] w (Gives (vN n) w) := by
  go_enter Try.func17, Try.ntmps17
  go_wp2_with (first | ((with_reducible show wpList _ _ _ (⟨some 2, .alloc 23, _, _, _, _⟩ :: _) _ _); go_must (refine wpList_alloc_row rfl 23 rfl (.agg (zbs 32)) zero23 ?_; intro w1 h1 z1 g1; have H1 := Lib.hid h1; have Z1 := Lib.hid z1; have G1 := Lib.hid g1; clear h1 z1 g1)) | ((with_reducible show wpList _ _ _ (⟨some 3, .alloc 23, _, _, _, _⟩ :: _) _ _); go_must (refine wpList_alloc_row rfl 23 rfl (.agg (zbs 32)) zero23 ?_; intro w2 h1 z1 g1; have H2 := Lib.hid h1; have Z2 := Lib.hid z1; have G2 := Lib.hid g1; clear h1 z1 g1)))
  have HRow1 : Hid (w2.heap[w.heap.size]? = some (.cells (zbs 32) 23 (0, 0))) := ((below_of_grownBy G2.out).block _ (by have := Z1.out; omega)).trans H1.out
  have HPb : Hid (Pb (w.heap.size + 1) w2 32 (List.replicate 32 0) w2) := by
    have h2 := H2.out
    rw [Z1.out] at h2
    exact ⟨rfl, ⟨23, h2⟩, Keeps.refl _ _⟩
  have HB2 : Hid (Below w.heap.size w w2) := (below_of_grownBy G1.out).trans ((below_of_grownBy G2.out).mono (by have := Z1.out; omega))
  rw [show w1.heap.size = w.heap.size + 1 from by rw [Z1.out]]
  clear H1 Z1 G1 H2 Z2 G2
  refine (setQuad_any (w.heap.size + 1) 0 32 32 x _ _ (by omega) HPb.out).mono ?_
  rintro e x4 ⟨rfl, hp⟩
  have HRow : Hid (x4.heap[w.heap.size]? = some (.cells (zbs 32) 23 (0, 0))) := (hp.keeps.block _ (Array.getElem?_eq_some_iff.1 HRow1.out).1 (by show ¬ _ = _; omega)).trans HRow1.out
  have HBel : Hid (Below w.heap.size w x4) := HB2.out.trans (hp.keeps.below HB2.out.size (fun k hlt => by show ¬ _ = _; omega))
  have HQ := Lib.hid hp
  rw [HP.out] at HQ
  clear hp HPb HB2 HRow1 HP
  obtain ⟨L, hL⟩ : ∃ L, L = enc n := ⟨_, rfl⟩
  have HL : Hid (L.length = 32) := by rw [hL]; exact enc_len n
  have HLE : Hid (Value.agg (bcs L).toArray = vN n) := by rw [hL]; rfl
  rw [← hL] at HQ
  clear hL
  obtain ⟨t, ht⟩ := HQ.out.row
  have HT := Lib.hid ht
  clear ht HQ
  go_wp2_with (first | ((with_reducible show wpList _ _ _ (⟨_, .load 23 (.tmp 3), _, _, _, _⟩ :: _) _ _); go_must (refine wpList_load_arr rfl 23 (.tmp 3) rfl (w.heap.size + 1) 0 rfl (bcs L) (fun i u hu => by rw [Nat.zero_add]; exact row_cells HT.out i u (by simpa using hu)) _ under23 rfl (by rw [bcs_len, HL.out]; exact size23) ?_)) | ((with_reducible show wpList _ _ _ (⟨none, .store 23 (.tmp 2) (.tmp 7), _, _, _, _⟩ :: _) _ _); go_must (refine wpList_store_all rfl 23 (.tmp 2) (.tmp 7) rfl (w.heap.size) rfl (bcs L).toArray rfl 23 _ HRow.out (by rw [List.size_toArray, bcs_len, HL.out]; exact size23) (by rw [List.size_toArray, bcs_len, HL.out]; rfl) (bcs_one _) ?_; intro x5 hh hg hz; have HH := Lib.hid hh; have HG := Lib.hid hg; clear hh hg hz)))
  refine bodyPost_ret (results_cell_row rfl _ _ (w.heap.size) 23 (bcs L).toArray _ _ rfl HH.out under23 rfl (by rw [List.size_toArray, bcs_len, HL.out]; exact size23)) rfl ?_
  exact ⟨by rw [HLE.out], HBel.out.grown HG.out HBel.out.size (fun r hr => by injection hr; omega)⟩

/-! The same, of numbers. -/
theorem Of_any (x : Nat) (h : x < 18446744073709551616) (w : World) : Calls Try.prog 17 #[.int .u64 x] w (Gives (vN x) w) := Of_core x x w (Lib.hid (put_of x h))
theorem Rest_any (a : Nat) (ha : a < TT) (w : World) : Calls Try.prog 13 #[vN a] w (Gives (vN (a % PP)) w) :=
  Rest_list (enc a) _ w (Lib.hid (enc_len a)) (by rw [rdw_val, nv_enc a ha]; exact Lib.hid rfl)
theorem Pow_any (a e : Nat) (ha : a < TT) (he : e < TT) (w : World) : Calls Try.prog 27 #[vN a, vN e] w (Gives (vN (a ^ e % PP)) w) :=
  Pow_core (enc a) (enc e) a _ w (Lib.hid (enc_len a)) (Lib.hid (enc_len e)) (Lib.hid (nv_enc a ha)) (by rw [nv_enc e he]; exact Lib.hid rfl)
theorem Add_any (a b : Nat) (ha : a < TT) (hb : b < TT) (w : World) : Calls Try.prog 19 #[vN a, vN b] w (Gives (vN ((a + b) % PP)) w) := by
  have h := Add_list (enc a) (enc b) (enc_len a) (enc_len b) w
  rw [nv_enc a ha, nv_enc b hb] at h
  exact h
theorem Sub_any (a b : Nat) (ha : a < TT) (hb : b < TT) (w : World) : Calls Try.prog 21 #[vN a, vN b] w (Gives (vN ((a + (PP - b % PP)) % PP)) w) := by
  have h := Sub_list (enc a) (enc b) (enc_len a) (enc_len b) w
  rw [nv_enc a ha, nv_enc b hb] at h
  exact h
theorem Mul_any (a b : Nat) (ha : a < TT) (hb : b < TT) (w : World) : Calls Try.prog 25 #[vN a, vN b] w (Gives (vN (a * b % PP)) w) := by
  have h := Mul_list (enc a) (enc b) (enc_len a) (enc_len b) w
  rw [nv_enc a ha, nv_enc b hb] at h
  exact h
end Go.Proofs.Ytgdimnbdnepbgaa
