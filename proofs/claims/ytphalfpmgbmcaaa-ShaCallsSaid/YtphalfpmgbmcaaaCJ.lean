/- The reference's StartShort. No statement is proved here. -/
import Derived.Test.YtphalfpmgbmcaaaCI
namespace Go.Proofs.Ytphalfpmgbmcaaa
open Go.RowKit
set_option linter.unusedVariables false
set_option linter.unusedSimpArgs false

structure Ss (w0 : World) (g : Nat) (l : List Nat) (W : World) : Prop where
  res : W.heap[w0.heap.size]? = some (.cells (zw 8) 27 (0, 0))
  ts : W.heap[g]? = some (.cells (ucs l).toArray 27 (0, 0))
  le : w0.heap.size < g
  lt : g < W.heap.size
  bel : Below w0.heap.size w0 W
theorem Ss.keep {w0 : World} {g : Nat} {l : List Nat} {W W' : World} (h : Ss w0 g l W) (hb : Below W.heap.size W W') : Ss w0 g l W' := by
  have := h.lt
  have := h.le
  exact ⟨(hb.block _ (by omega)).trans h.res, (hb.block _ (by omega)).trans h.ts, h.le, Nat.lt_of_lt_of_le h.lt hb.size, h.bel.trans (hb.mono (by omega))⟩
theorem Ss.put {w0 : World} {g : Nat} {l l' : List Nat} {W W' : World} (h : Ss w0 g l W) (hh : W'.heap[g]? = some (.cells (ucs l').toArray 27 (0, 0))) (hg : W.grownBy W' (some g)) (hz : W'.heap.size = W.heap.size) : Ss w0 g l' W' := by
  have := h.lt
  have := h.le
  exact ⟨(hg.block _ (by omega) (by simp; omega)).trans h.res, hh, h.le, by omega, h.bel.grown hg (by omega) (fun r hr => by injection hr; omega)⟩

set_option maxRecDepth 100000 in
set_option maxHeartbeats 1000000 in
theorem rshort_any (w : World) : Calls Try.prog 26 #[] w (Gives (.agg (ucs start256.words).toArray) w) := by
  have CR : Hid (∀ W S A n c, Src W S A n (bcs shortName) → (∀ b, S b → b < W.heap.size) → n ≤ 1000000000 → Calls Try.prog 38 #[.agg (ucs startX.words).toArray, .slice A n c] W (Gives (.agg (ucs start256.words).toArray) W)) := Lib.hid (fun W S A n c h1 h2 h3 => by
    have := rrun_any startX startX_fits shortName W S A n c h1 h2 h3
    rw [short_sum] at this
    exact this)
  have HLX := Lib.hid (words_len startX)
  have HLS := Lib.hid (words_len start512)
  have HLR := Lib.hid (words_len start256)
  have HGX := Lib.hid startX_get
  have HGL := Lib.hid start512_get_lt
  have HR8 : Hid ((Try.prog.info? 27).map (·.size) = some (ucs start256.words).toArray.size) := Lib.hid (sz27 _)
  have HR9 : Hid ((ucs start256.words).toArray.size = (zw 8).size) := Lib.hid (fit8z _)
  have HS8 : Hid ((Try.prog.info? 27).map (·.size) = some (ucs start512.words).toArray.size) := Lib.hid (sz27 _)
  have HS9 : Hid ((ucs start512.words).toArray.size = (zw 8).size) := Lib.hid (fit8z _)
  have HX8 : Hid ((Try.prog.info? 27).map (·.size) = some (ucs startX.words).length) := Lib.hid (sz27l' _)
  have CS := Lib.hid rstart_any
  generalize start256.words = RW at *
  generalize start512.words = SW at *
  generalize startX.words = XW at *
  go_enter Try.func26, Try.ntmps26
  go_wp2_with (first | (with_reducible refine wpList_alloc_row rfl 27 rfl (.agg (zw 8)) zero27 ?_; intro w1 hh1 hz1 hg1; have H1 := Lib.hid hh1; have G1 := Lib.hid hg1; have Z1 := Lib.hid hz1; clear hh1 hg1 hz1))
  refine (CS.out _).mono ?_
  rintro e2 w2 ⟨rfl, hb2⟩
  have B2 := Lib.hid hb2
  clear hb2
  have HT : Hid (∀ w3 w4 : World, w3.heap[w2.heap.size]? = some (.cells (zw 8) 27 (0, 0)) → w3.heap.size = w2.heap.size + 1 → w2.grownBy w3 none → w4.heap[w2.heap.size]? = some (.cells (ucs SW).toArray 27 (0, 0)) → w3.grownBy w4 (some w2.heap.size) → w4.heap.size = w3.heap.size → Ss w w2.heap.size (mix XW SW 0) w4) := Lib.hid (fun w3 w4 a3 z3 g3 a4 g4 z4 => by
    have h1 := Z1.out
    have h2 := B2.out.size
    rw [mix_none]
    exact ⟨(g4.block _ (by omega) (by simp; omega)).trans ((g3.block _ (by omega) (by simp)).trans ((B2.out.block _ (by omega)).trans H1.out)), a4, by omega, by omega, ((((below_of_grownBy G1.out).trans (B2.out.mono (by omega))).grown g3 (by omega) (by simp)).grown g4 (by omega) (fun r hr => by injection hr; omega))⟩)
  go_wp2_with (first | ((with_reducible refine wpList_alloc_row rfl 27 rfl (.agg (zw 8)) zero27 ?_); intro w3 hh3 hz3 hg3; have A3 := Lib.hid hh3; have G3 := Lib.hid hg3; have Z3 := Lib.hid hz3; clear hh3 hg3 hz3) | ((with_reducible show wpList _ _ _ (⟨none, .store 27 (.tmp 1) (.tmp 3), _, _, _, _⟩ :: _) _ _); go_must (refine wpList_store_all rfl 27 (.tmp 1) (.tmp 3) rfl w2.heap.size rfl (ucs SW).toArray rfl 27 (zw 8) A3.out HS8.out HS9.out (ucs_one _) ?_; intro w4 hh4 hg4 hz4; have H4 := Lib.hid (HT.out w3 w4 A3.out Z3.out G3.out hh4 hg4 hz4); clear hh4 hg4 hz4 A3 Z3 G3 HT)))
  clear B2 G1 H1 Z1
  generalize w2.heap.size = g at *
  go_loopw [2] (fun i wr => ∃ j : Nat, j ≤ 8 ∧ i = .int .i64 j ∧ Ss w g (mix XW SW j) wr) (fun i _ => 8 - (intOf i).toNat)
  case atStart => exact ⟨0, by omega, rfl, H4.out⟩
  case round =>
    obtain ⟨j, hj, rfl, hs⟩ := hrel
    have H := Lib.hid hs
    clear hs H4
    by_cases hlt : j < 8
    · have HM := Lib.hid (mix_set XW SW j HLX.out HLS.out hlt)
      have HL := Lib.hid (mix_len XW SW j HLX.out HLS.out hj)
      have c1 := word_cell H.out.ts j (by rw [HL.out]; exact hlt)
      rw [mix_get XW SW j HLX.out HLS.out hlt] at c1
      rw [HGX.out j hlt] at HM
      have HA := Lib.hid (xor_lit (SW.getD j 0) (HGL.out j))
      clear HGX HGL
      generalize SW.getD j 0 = x at *
      generalize x ^^^ 11936128518282651045 = v at *
      have hji : (j : Int) < 8 := by omega
      go_wp2_with ((with_reducible show wpList _ _ _ (⟨none, .store 24 (.tmp 13) (.tmp 12), _, _, _, _⟩ :: _) _ _); go_must (rw [HA.out]; refine wpList_store_one rfl 24 (.tmp 13) (.tmp 12) rfl g j rfl .u64 _ rfl 27 _ H.out.ts size24 (by simp [ucs_len, HL.out]; omega) ?_; intro w3 hh3 hg3 hz3; rw [ucs_set, HM.out] at hh3; have H3 := Lib.hid (H.out.put hh3 hg3 hz3); clear hh3 hg3 hz3))
      go_roundw
      case rel =>
        first | exact ⟨j + 1, by omega, by go_num, H3.out⟩ | ((repeat apply Exists.intro); exact ⟨⟨j + 1, by omega, by go_num, H3.out⟩, rfl⟩)
      case measure => simp [intOf]; omega
    · obtain rfl : j = 8 := by omega
      have HMF := Lib.hid (mix_full XW SW HLX.out HLS.out)
      rw [HMF.out] at H
      clear hlt hj HGX HGL HMF HLX HLS
      have HC : Hid (∀ i u, (ucs XW)[i]? = some u → wr.cell? ⟨g, 0 + i, none⟩ = some u) := Lib.hid (fun i u hu => by
        rw [Nat.zero_add]; exact row_cells H.out.ts i u (by simpa using hu))
      rw [show ((8 : Nat) : Int) = 8 from rfl]
      have hcv := fun (w : World) (C : Array Value) (n c : Nat) => Lib.run_convert_bytes_const (P := Try.prog) w 30 5 C n c Try.underlying30 Try.underlying5
      go_wp2_with ((with_reducible show wpList _ _ _ (⟨_, .load 27 (.tmp 1), _, _, _, _⟩ :: _) _ _); go_must (refine wpList_load_arr rfl 27 (.tmp 1) rfl g 0 rfl (ucs XW) HC.out _ under27 rfl HX8.out ?_))
      refine (CR.out _ _ _ _ _ (Src.lit wr #[.int .u8 83, .int .u8 72, .int .u8 65, .int .u8 45, .int .u8 53, .int .u8 49, .int .u8 50, .int .u8 47, .int .u8 50, .int .u8 53, .int .u8 54] 5 _ shortName rfl) (fun b hb => by simp; omega) (by decide)).mono ?_
      rintro e5 w5 ⟨rfl, hb5⟩
      have H5 := Lib.hid ((H.out.keep (below_alloc wr _)).keep hb5)
      clear hb5 hcv HC H
      go_wp2_with ((with_reducible show wpList _ _ _ (⟨none, .store 27 (.tmp 0) (.tmp 17), _, _, _, _⟩ :: _) _ _); go_must (refine wpList_store_all rfl 27 (.tmp 0) (.tmp 17) rfl w.heap.size rfl (ucs RW).toArray rfl 27 (zw 8) H5.out.res HR8.out HR9.out (ucs_one _) ?_; intro w6 hh6 hg6 hz6))
      have H6 := Lib.hid hh6
      have G6 := Lib.hid hg6
      clear hh6 hg6
      go_wp2
      refine bodyPost_ret (results_cell_row rfl _ _ w.heap.size 27 (ucs RW).toArray _ _ rfl H6.out under27 rfl HR8.out) rfl ?_
      exact ⟨rfl, H5.out.bel.grown G6.out H5.out.bel.size (fun r hr => by injection hr; omega)⟩
end Go.Proofs.Ytphalfpmgbmcaaa
