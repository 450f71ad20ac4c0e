/- The reference's piece. No statement is proved here. -/
import Derived.Test.YtphalfpmgbmcaaaCD
namespace Go.Proofs.Ytphalfpmgbmcaaa
open Go.RowKit
set_option linter.unusedVariables false
set_option linter.unusedSimpArgs false

set_option maxRecDepth 100000 in
set_option maxHeartbeats 4000000 in
theorem rpiece_any (s : St) (hs : s.Fits) (blk : List UInt8) (hl : blk.length = 128) (w : World) (S : Nat → Prop) (A : Option Addr) (c : Nat) (hsrc : Src w S A 128 (bcs blk)) (hS : ∀ b, S b → b < w.heap.size) :
    Calls Try.prog 42 #[.agg (ucs s.words).toArray, .slice A 128 c] w (Gives (.agg (ucs (piece s blk).words).toArray) w) := by
  have HLL := Lib.hid hl
  have HFS := Lib.hid hs
  obtain ⟨ba, oa, rfl, hba, hcell⟩ := hsrc.lies (by omega)
  have hba' := hS ba hba
  have HBC : Hid (∀ W, Below w.heap.size w W → ∀ i, i < 128 → W.cell? ⟨ba, oa + i, none⟩ = some (.int .u8 ((blk.getD i 0).toNat : Int))) := Lib.hid (fun W hW i hi => by
    rw [hW.cell (p := ⟨ba, oa + i, none⟩) hba', hcell i hi, bcs_get, List.getD_eq_getElem?_getD, List.getElem?_eq_getElem (by rw [hl]; exact hi)]
    rfl)
  clear hs hl hsrc hcell hS hba
  have HPC : Hid (piece s blk = s.plus (St.rounds K80 (sched blk) 80 s)) := rfl
  have HSL : Hid ((sched blk).length = 80) := sched_len blk
  have HLO := Lib.hid (sched_low blk)
  have HHI := Lib.hid (sched_high blk)
  have HRL : Hid (∀ i, (sched blk).getD i 0 < 18446744073709551616) := Lib.hid (fun i => getD_lt (schedN_lt _ (sched0_lt blk 16) 64) i)
  have HBN : Hid (∀ t i, t < 16 → i < 8 → beN ((blk.drop (8 * t)).take (i + 1)) = beN ((blk.drop (8 * t)).take i) * 256 + (blk.getD (8 * t + i) 0).toNat ∧ beN ((blk.drop (8 * t)).take i) < 256 ^ i) := Lib.hid (fun t i h1 h2 => beN_next blk t i (by rw [HLL.out]; omega))
  have HB0 : Hid (∀ t, beN ((blk.drop (8 * t)).take 0) = 0) := Lib.hid (fun t => rfl)
  generalize sched blk = R at *
  generalize hBN : (fun t i => beN ((blk.drop (8 * t)).take i)) = BN at *
  have hBN' : ∀ t i, beN ((blk.drop (8 * t)).take i) = BN t i := fun t i => by rw [← hBN]
  simp only [hBN'] at HBN HB0 HLO
  clear hBN hBN'
  generalize piece s blk = PP at *
  have M1 : Hid True := trivial
  have M2 : Hid True := trivial
  go_enter Try.func42, Try.ntmps42
  go_wp2_with (first | (clear M1; with_reducible refine wpList_alloc_row rfl 27 rfl (.agg (zw 8)) zero27 ?_; intro w1 hh1 hz1 hg1))
  simp only [World.size_alloc] at hz1 hh1 ⊢
  have H1 : Hid (w1.heap.size = w.heap.size + 2 ∧ w1.heap[w.heap.size]? = some (.cells (ucs s.words).toArray 27 (0, 0)) ∧ w1.heap[w.heap.size + 1]? = some (.cells (zw 8) 27 (0, 0)) ∧ Below w.heap.size w w1) := by
    refine ⟨by omega, ?_, hh1, ?_⟩
    · exact (hg1.block _ (by simp) (by simp)).trans (heap_alloc_new w _)
    · exact (below_alloc w _).grown hg1 (by simp) (by simp)
  clear hh1 hz1 hg1
  refine (rK_any w1).mono ?_
  rintro e2 w2 ⟨rfl, hb2⟩
  have H2 : Hid (w.heap.size + 2 ≤ w2.heap.size ∧ w2.heap[w.heap.size]? = some (.cells (ucs s.words).toArray 27 (0, 0)) ∧ w2.heap[w.heap.size + 1]? = some (.cells (zw 8) 27 (0, 0)) ∧ Below w.heap.size w w2) := by
    obtain ⟨a1, a2, a3, a4⟩ := H1.out
    have := hb2.size
    exact ⟨by omega, (hb2.block _ (by omega)).trans a2, (hb2.block _ (by omega)).trans a3, a4.trans (hb2.mono (by omega))⟩
  clear hb2 H1
  have HT : Hid (∀ w3 w4 w5 : World, w3.heap.size = w2.heap.size + 1 → w2.grownBy w3 none → w4.heap[w2.heap.size]? = some (.cells K80a 25 (0, 0)) → w3.grownBy w4 (some w2.heap.size) → w4.heap.size = w3.heap.size → w5.heap[w4.heap.size]? = some (.cells (zw 80) 25 (0, 0)) → w5.heap.size = w4.heap.size + 1 → w4.grownBy w5 none → Rp w w2.heap.size w4.heap.size s.words (List.replicate 80 0) w5) := Lib.hid (by
    intro w3 w4 w5 z3 g3 a4 g4 z4 a5 z5 g5
    obtain ⟨b1, b2, b3, b4⟩ := H2.out
    have hk : ∀ k, k < w2.heap.size → w5.heap[k]? = w2.heap[k]? := fun k hk => (g5.block _ (by omega) (by simp)).trans ((g4.block _ (by omega) (by simp; omega)).trans (g3.block _ hk (by simp)))
    exact ⟨(hk _ (by omega)).trans b2, (hk _ (by omega)).trans b3, (g5.block _ (by omega) (by simp)).trans a4, a5, by omega, by omega, by omega, ((b4.grown g3 (by omega) (by simp)).grown g4 (by omega) (fun r hr => by injection hr; omega)).grown g5 (by omega) (by simp)⟩)
  go_wp2_with (first | (clear M2; with_reducible refine wpList_alloc_row rfl 25 rfl (.agg (zw 80)) zero25 ?_; intro w3 hh3 hz3 hg3; have A3 := Lib.hid hh3; have G3 := Lib.hid hg3; have Z3 := Lib.hid hz3; clear hh3 hg3 hz3) | ((with_reducible show wpList _ _ _ (⟨none, .store 25 (.tmp 5) (.tmp 18), _, _, _, _⟩ :: _) _ _); go_must (refine wpList_store_all rfl 25 (.tmp 5) (.tmp 18) rfl w2.heap.size rfl K80a rfl 25 (zw 80) A3.out sz25K K80a_zw K80a_one ?_; intro w4 hh4 hg4 hz4; have A4 := Lib.hid hh4; have G4 := Lib.hid hg4; have Z4 := Lib.hid hz4; clear hh4 hg4 hz4)) | ((with_reducible show wpList _ _ _ (⟨some 6, .alloc 25, _, _, _, _⟩ :: _) _ _); go_must ((with_reducible refine wpList_alloc_row rfl 25 rfl (.agg (zw 80)) zero25 ?_); intro w5 hh5 hz5 hg5; have HR := Lib.hid (HT.out w3 w4 w5 Z3.out G3.out A4.out G4.out Z4.out hh5 hz5 hg5); clear hh5 hg5 hz5)))
  have hsz2 := H2.out.1
  clear A3 G3 Z3 A4 G4 Z4 HT H2
  generalize w2.heap.size = g5 at *
  generalize w4.heap.size = g6 at *
  go_loopw [7, 8, 9, 10] (fun i _ _ _ wr => ∃ t : Nat, ∃ X : List Nat, t ≤ 80 ∧ i = .int .i64 t ∧ Xs R X t 0 ∧ Rp w g5 g6 s.words X wr) (fun i _ _ _ _ => 80 - (intOf i).toNat)
  case atStart => exact ⟨0, _, by omega, rfl, Xs.start R, HR.out⟩
  case round =>
    obtain ⟨t, X, ht, rfl, hx, hr⟩ := hrel
    have HX := Lib.hid hx
    have H := Lib.hid hr
    clear hx hr HR
    by_cases hlt : t < 80
    · by_cases h16 : t < 16
      · have hd16 : decide ((t : Int) < 16) = true := by simp; omega
        go_wp2_with fail
        obtain ⟨wo, hwo⟩ : ∃ wo : World, wo = wr := ⟨_, rfl⟩
        rw [← hwo] at H ⊢
        clear hwo
        rw [show decide ((t : Int) < 80) = true from by simp; omega]
        go_loopw [8] (fun j wr => ∃ i : Nat, ∃ X : List Nat, i ≤ 8 ∧ j = .int .i64 i ∧ Xs R X t (BN t i) ∧ Rp w g5 g6 s.words X wr) (fun j _ => 8 - (intOf j).toNat)
        case atStart => exact ⟨0, X, by omega, rfl, by rw [HB0.out]; exact HX.out, H.out⟩
        case round =>
          obtain ⟨i, Y, hi, rfl, hx, hr⟩ := hrel
          have HY := Lib.hid hx
          have H1 := Lib.hid hr
          clear hx hr HX H
          by_cases hi8 : i < 8
          · obtain ⟨hn1, hn2⟩ := HBN.out t i h16 hi8
            have HN1 := Lib.hid hn1
            have hbyte := (blk.getD (8 * t + i) 0).toNat_lt
            have hval := Lib.hid (byte_in hn2 hi8 hbyte)
            have cb := HBC.out wr H1.out.bel (8 * t + i) (by omega)
            have cx := word_cell H1.out.ws t (by rw [HY.out.len]; exact hlt)
            rw [HY.out.at_ hlt] at cx
            have HP := Lib.hid (HY.out.put hlt (BN t (i + 1)))
            have HYL := Lib.hid HY.out.len
            clear hn1 hn2
            generalize (blk.getD (8 * t + i) 0).toNat = y at *
            generalize BN t i = v at *
            generalize hv' : BN t (i + 1) = v' at *
            have HVE := Lib.hid hv'
            clear hv'
            have hti : (t : Int) < 80 := by omega
            have hii : (i : Int) < 8 := by omega
            have h128 : 8 * t + i < 128 := by omega
            have W1 : IntKind.i64.wrap (8 * (t : Int)) = ((8 * t : Nat) : Int) := (IntWalk.i64_in _ (by omega)).trans (by omega)
            have W2 : IntKind.i64.wrap (((8 * t : Nat) : Int) + (i : Int)) = ((8 * t + i : Nat) : Int) := (IntWalk.i64_in _ (by omega)).trans (by omega)
            have W3 : IntKind.u64.wrap (y : Int) = (y : Int) := by rw [IntKind.wrap_u64]; omega
            have W4 : 8 * t ≤ 128 := by omega
            generalize hp : 8 * t + i = p at *
            generalize hq : 8 * t = q at *
            have hpi : (p : Int) < 128 := by omega
            clear hp hq
            have cb1 : ({ heap := wr.heap, tape := wr.tape, drawn := wr.drawn + 1, os := wr.os, output := wr.output } : World).cell? ⟨ba, oa + p, none⟩ = some (.int .u8 (y : Int)) := cb
            have cx1 : ({ heap := wr.heap, tape := wr.tape, drawn := wr.drawn + 1, os := wr.os, output := wr.output } : World).cell? ⟨g6, t, none⟩ = some (.int .u64 (v : Int)) := cx
            go_wp2_with fail
            go_still_tail 15, (by kernel_rfl)
            have H2 : Hid (Rp w g5 g6 s.words Y { heap := wr.heap, tape := wr.tape, drawn := wr.drawn + 1, os := wr.os, output := wr.output }) := Lib.hid (H1.out.drewN 1)
            clear cb cx cb1 cx1 W1 W2 W3 H1
            generalize ({ heap := wr.heap, tape := wr.tape, drawn := wr.drawn + 1, os := wr.os, output := wr.output } : World) = wd at *
            rw [hval.out, ← HN1.out]
            refine wpList_store_one rfl 24 (.tmp 43) (.tmp 42) rfl g6 t rfl .u64 _ rfl 25 _ H2.out.ws size24 (by simp [ucs_len, HYL.out]; omega) ?_
            intro w3 hh3 hg3 hz3
            rw [ucs_set] at hh3
            have H3 := Lib.hid (H2.out.put hh3 hg3 hz3)
            clear hh3 hg3 hz3 H2
            go_wp2
            go_roundw
            case rel =>
              first | exact ⟨i + 1, Y.set t v', by omega, by go_num, by rw [HVE.out]; exact HP.out, H3.out⟩ | ((repeat apply Exists.intro); exact ⟨⟨i + 1, Y.set t v', by omega, by go_num, by rw [HVE.out]; exact HP.out, H3.out⟩, rfl⟩)
            case measure => simp [intOf]; omega
          · obtain rfl : i = 8 := by omega
            have HN := Lib.hid (HY.out.next hlt (by rw [HLO.out t h16]))
            clear HY hi8 hi
            go_wp2
            go_roundw
            case rel =>
              first | exact ⟨t + 1, Y, by omega, by go_num, HN.out, H1.out⟩ | ((repeat apply Exists.intro); exact ⟨⟨t + 1, Y, by omega, by go_num, HN.out, H1.out⟩, rfl⟩)
            case measure => simp [intOf]; omega
      · have hd16 : decide ((t : Int) < 16) = false := by simp; omega
        have HV := Lib.hid (HHI.out t (by omega) hlt)
        have HXL := Lib.hid HX.out.len
        have HG : Hid (∀ k, k < t → wr.cell? ⟨g6, k, none⟩ = some (.int .u64 (R.getD k 0 : Nat))) := Lib.hid (fun k hk => by
          rw [← HX.out.lo k hk]
          exact word_cell H.out.ws k (by rw [HX.out.len]; omega))
        have c1 := HG.out (t - 15) (by omega)
        have c2 := HG.out (t - 2) (by omega)
        have c3 := HG.out (t - 16) (by omega)
        have c4 := HG.out (t - 7) (by omega)
        have B1 := Lib.hid (HRL.out (t - 15))
        have B2 := Lib.hid (HRL.out (t - 2))
        have B3 := Lib.hid (HRL.out (t - 16))
        have B4 := Lib.hid (HRL.out (t - 7))
        have HP := Lib.hid ((HX.out.put hlt (R.getD t 0)).next hlt rfl)
        generalize R.getD t 0 = nv at *
        generalize R.getD (t - 15) 0 = x1 at *
        generalize R.getD (t - 2) 0 = x2 at *
        generalize R.getD (t - 16) 0 = x3 at *
        generalize R.getD (t - 7) 0 = x4 at *
        clear HG HX
        have s15 : IntKind.i64.wrap ((t : Int) - 15) = ((t - 15 : Nat) : Int) := (IntWalk.i64_in _ (by omega)).trans (by omega)
        have s2 : IntKind.i64.wrap ((t : Int) - 2) = ((t - 2 : Nat) : Int) := (IntWalk.i64_in _ (by omega)).trans (by omega)
        have l15 : ((t - 15 : Nat) : Int) < 80 := by omega
        have l2 : ((t - 2 : Nat) : Int) < 80 := by omega
        have C1 := Lib.hid c1
        have C2 := Lib.hid c2
        have C3 := Lib.hid c3
        have C4 := Lib.hid c4
        clear c1 c2 c3 c4
        go_wp2_with fail
        have c1 := C1.out
        have c2 := C2.out
        go_quiet (fail)
        obtain ⟨wq, hwq⟩ : ∃ wq, wq = wr.drewN nq := ⟨_, rfl⟩
        have HQ : Hid (Rp w g5 g6 s.words X wq) := by rw [hwq]; exact H.out.drewN nq
        have c3 : wq.cell? ⟨g6, t - 16, none⟩ = some (.int .u64 (x3 : Int)) := by rw [hwq]; exact C3.out
        have c4 : wq.cell? ⟨g6, t - 7, none⟩ = some (.int .u64 (x4 : Int)) := by rw [hwq]; exact C4.out
        rw [← hwq]
        clear hwq c1 c2 s15 s2 l15 l2 H C1 C2 C3 C4
        have D3 := Lib.hid c3
        have D4 := Lib.hid c4
        clear c3 c4
        have R1 : Hid (∀ w, Calls Try.prog 50 #[.int .u64 (x1 : Int), .int .i64 1] w fun e w' => e = .returned (.int .u64 (rotr x1 1)) ∧ w' = w) := fun w => (rrot_any x1 1 w B1.out (by omega) (by omega)).mono fun e w' h => ⟨h.1, h.2.symm⟩
        have R2 : Hid (∀ w, Calls Try.prog 50 #[.int .u64 (x1 : Int), .int .i64 8] w fun e w' => e = .returned (.int .u64 (rotr x1 8)) ∧ w' = w) := fun w => (rrot_any x1 8 w B1.out (by omega) (by omega)).mono fun e w' h => ⟨h.1, h.2.symm⟩
        have R3 : Hid (∀ w, Calls Try.prog 50 #[.int .u64 (x2 : Int), .int .i64 19] w fun e w' => e = .returned (.int .u64 (rotr x2 19)) ∧ w' = w) := fun w => (rrot_any x2 19 w B2.out (by omega) (by omega)).mono fun e w' h => ⟨h.1, h.2.symm⟩
        have R4 : Hid (∀ w, Calls Try.prog 50 #[.int .u64 (x2 : Int), .int .i64 61] w fun e w' => e = .returned (.int .u64 (rotr x2 61)) ∧ w' = w) := fun w => (rrot_any x2 61 w B2.out (by omega) (by omega)).mono fun e w' h => ⟨h.1, h.2.symm⟩
        have s16 : IntKind.i64.wrap ((t : Int) - 16) = ((t - 16 : Nat) : Int) := (IntWalk.i64_in _ (by omega)).trans (by omega)
        have s7 : IntKind.i64.wrap ((t : Int) - 7) = ((t - 7 : Nat) : Int) := (IntWalk.i64_in _ (by omega)).trans (by omega)
        have l16 : ((t - 16 : Nat) : Int) < 80 := by omega
        have l7 : ((t - 7 : Nat) : Int) < 80 := by omega
        have hti : (t : Int) < 80 := by omega
        have c3' : ({ heap := wq.heap, tape := wq.tape, drawn := wq.drawn + 1, os := wq.os, output := wq.output } : World).cell? ⟨g6, t - 16, none⟩ = some (.int .u64 (x3 : Int)) := D3.out
        have c4' : ({ heap := wq.heap, tape := wq.tape, drawn := wq.drawn + 1, os := wq.os, output := wq.output } : World).cell? ⟨g6, t - 7, none⟩ = some (.int .u64 (x4 : Int)) := D4.out
        have c3 := D3.out
        have c4 := D4.out
        go_wp2_with fail
        refine wp_region_still_tail 29 (by kernel_rfl) (by kernel_rfl) ?_
        simp only [List.take_succ_cons, List.take_zero, List.drop_succ_cons, List.drop_zero]
        repeat (first | still_step | (refine wpStill_step (fun K hK => ?_); go_simp; (with_reducible refine ⟨_, R1.out _, hK _ ?_⟩); clear hK K) | (refine wpStill_step (fun K hK => ?_); go_simp; (with_reducible refine ⟨_, R2.out _, hK _ ?_⟩); clear hK K) | (refine wpStill_step (fun K hK => ?_); go_simp; (with_reducible refine ⟨_, R3.out _, hK _ ?_⟩); clear hK K) | (refine wpStill_step (fun K hK => ?_); go_simp; (with_reducible refine ⟨_, R4.out _, hK _ ?_⟩); clear hK K))
        try refine wpStill_nil ?_
        rw [ss0_bits B1.out, ss1_bits B2.out]
        have HV2 : Hid (nv = m64 (x3 + ss0 x1 + x4 + ss1 x2)) := HV.out
        have HQd : Hid (Rp w g5 g6 s.words X { heap := wq.heap, tape := wq.tape, drawn := wq.drawn + 1, os := wq.os, output := wq.output }) := Lib.hid (HQ.out.drewN 1)
        clear c3 c4 c3' c4' s16 s7 l16 l7 HQ D3 D4 R1 R2 R3 R4 HV B1 B2 B3 B4
        generalize ss0 x1 = z0 at *
        generalize ss1 x2 = z1 at *
        generalize ({ heap := wq.heap, tape := wq.tape, drawn := wq.drawn + 1, os := wq.os, output := wq.output } : World) = wd at *
        refine wpList_store_one rfl 24 (.tmp 80) (.tmp 79) rfl g6 t rfl .u64 _ rfl 25 _ HQd.out.ws size24 (by simp [ucs_len, HXL.out]; omega) ?_
        intro w3 hh3 hg3 hz3
        rw [add3, ← HV2.out, ucs_set] at hh3
        have H3 := Lib.hid (HQd.out.put hh3 hg3 hz3)
        clear hh3 hg3 hz3 HQd
        go_wp2
        go_roundw
        case rel =>
          first | exact ⟨t + 1, X.set t nv, by omega, by go_num, HP.out, H3.out⟩ | ((repeat apply Exists.intro); exact ⟨⟨t + 1, X.set t nv, by omega, by go_num, HP.out, H3.out⟩, rfl⟩)
        case measure => simp [intOf]; omega
    · obtain rfl : t = 80 := by omega
      have hX := HX.out.done HSL.out
      subst hX
      clear hlt ht HX HLO HHI HBN HB0 HBC
      rw [show ((80 : Nat) : Int) = 80 from rfl]
      have HCS : Hid (∀ i u, (ucs s.words)[i]? = some u → wr.cell? ⟨w.heap.size, 0 + i, none⟩ = some u) := Lib.hid (fun i u hu => by
        rw [Nat.zero_add]
        exact row_cells H.out.st i u (by simpa using hu))
      have HSZ : Hid ((Try.prog.info? 27).map (·.size) = some (ucs s.words).length) := Lib.hid (by rw [size27]; rfl)
      have HT : Hid (∀ w3 w4 : World, w3.heap[wr.heap.size]? = some (.cells (zw 8) 27 (0, 0)) → w3.heap.size = wr.heap.size + 1 → wr.grownBy w3 none → w4.heap[wr.heap.size]? = some (.cells (ucs s.words).toArray 27 (0, 0)) → w3.grownBy w4 (some wr.heap.size) → w4.heap.size = w3.heap.size → Rp w g5 g6 s.words X w4 ∧ w4.heap[wr.heap.size]? = some (.cells (ucs s.words).toArray 27 (0, 0)) ∧ g6 < wr.heap.size ∧ wr.heap.size < w4.heap.size) := Lib.hid (fun w3 w4 a3 z3 g3 a4 g4 z4 => by
        obtain ⟨b1, b2, b3, b4, b5, b6, b7, b8⟩ := H.out
        have hk : ∀ k, k < wr.heap.size → w4.heap[k]? = wr.heap[k]? := fun k hk => (g4.block _ (by omega) (by simp; omega)).trans (g3.block _ hk (by simp))
        exact ⟨⟨(hk _ (by omega)).trans b1, (hk _ (by omega)).trans b2, (hk _ (by omega)).trans b3, (hk _ b7).trans b4, b5, b6, by omega, (b8.grown g3 (by omega) (by simp)).grown g4 (by omega) (fun r hr => by injection hr; omega)⟩, a4, b7, by omega⟩)
      go_wp2_with (first | ((with_reducible show wpList _ _ _ (⟨_, .load 27 (.tmp 2), _, _, _, _⟩ :: _) _ _); go_must (refine wpList_load_arr rfl 27 (.tmp 2) rfl w.heap.size 0 rfl (ucs s.words) HCS.out _ under27 rfl HSZ.out ?_)) | ((with_reducible refine wpList_alloc_row rfl 27 rfl (.agg (zw 8)) zero27 ?_); intro w3 hh3 hz3 hg3; have A3 := Lib.hid hh3; have G3 := Lib.hid hg3; have Z3 := Lib.hid hz3; clear hh3 hg3 hz3) | ((with_reducible show wpList _ _ _ (⟨none, .store 27 (.tmp 11) (.tmp 81), _, _, _, _⟩ :: _) _ _); go_must (refine wpList_store_all rfl 27 (.tmp 11) (.tmp 81) rfl wr.heap.size rfl (ucs s.words).toArray rfl 27 (zw 8) A3.out (sz27 _) rfl (ucs_one _) ?_; intro w4 hh4 hg4 hz4; have H4 := Lib.hid (HT.out w3 w4 A3.out Z3.out G3.out hh4 hg4 hz4); clear hh4 hg4 hz4 A3 Z3 G3 HT)))
      have HQ0 : Hid (Rq w g5 g6 wr.heap.size s.words X s.words w4) := Lib.hid ⟨H4.out.1, H4.out.2.1, H4.out.2.2.1, H4.out.2.2.2⟩
      clear H4 H HCS HSZ
      generalize wr.heap.size = g7 at *
      have H0 : Hid (St.rounds K80 X 0 s = s) := rfl
      have HSt : Hid (∀ n, St.rounds K80 X (n + 1) s = (St.rounds K80 X n s).step (K80.getD n 0) (X.getD n 0)) := fun _ => rfl
      have HF : Hid (∀ n, (St.rounds K80 X n s).Fits) := fun n => HFS.out.rounds K80 X n
      have HKG : Hid (∀ (w : World) g t n, w.heap[g]? = some (.cells K80a t (0, 0)) → n < 80 → w.cell? ⟨g, n, none⟩ = some (.int .u64 (K80.getD n 0 : Nat))) := fun w g t n hg hn => by
        refine row_cells hg n _ ?_
        rw [K80a_list, ucs_get, List.getD_eq_getElem?_getD, List.getElem?_eq_getElem (by exact hn)]
        rfl
      generalize St.rounds K80 X = RR at *
      generalize K80 = KK at HKG HSt
      go_loopw [12, 13, 14, 15, 16] (fun i _ _ _ _ wr => ∃ n : Nat, n ≤ 80 ∧ i = .int .i64 n ∧ Rq w g5 g6 g7 s.words X (RR n s).words wr) (fun i _ _ _ _ _ => 80 - (intOf i).toNat)
      case atStart => exact ⟨0, by omega, rfl, by rw [H0.out]; exact HQ0.out⟩
      case round =>
        obtain ⟨n, hn, rfl, hq⟩ := hrel
        have H := Lib.hid hq
        clear hq HQ0
        by_cases hlt : n < 80
        · have HN := Lib.hid (HSt.out n)
          have HT := Lib.hid (HF.out n)
          have ck := Lib.hid (HKG.out wr g5 25 n H.out.rp.ks hlt)
          have cw := Lib.hid (word_cell H.out.rp.ws n (by rw [HSL.out]; exact hlt))
          clear HSt HF HKG H0
          generalize KK.getD n 0 = kk at *
          generalize X.getD n 0 = ww at *
          generalize hTT : RR n s = T at *
          have HTT := Lib.hid hTT
          clear hTT
          obtain ⟨ta, tb, tc, td, te, tf, tg, th⟩ := T
          have d0 : wr.cell? ⟨g7, 0, none⟩ = some (.int .u64 (ta : Int)) := row_cells H.out.ts 0 _ rfl
          have d1 := Lib.hid (show wr.cell? ⟨g7, 1, none⟩ = some (.int .u64 (tb : Int)) from row_cells H.out.ts 1 _ rfl)
          have d2 := Lib.hid (show wr.cell? ⟨g7, 2, none⟩ = some (.int .u64 (tc : Int)) from row_cells H.out.ts 2 _ rfl)
          have d3 := Lib.hid (show wr.cell? ⟨g7, 3, none⟩ = some (.int .u64 (td : Int)) from row_cells H.out.ts 3 _ rfl)
          have d4 : wr.cell? ⟨g7, 4, none⟩ = some (.int .u64 (te : Int)) := row_cells H.out.ts 4 _ rfl
          have d5 := Lib.hid (show wr.cell? ⟨g7, 5, none⟩ = some (.int .u64 (tf : Int)) from row_cells H.out.ts 5 _ rfl)
          have d6 := Lib.hid (show wr.cell? ⟨g7, 6, none⟩ = some (.int .u64 (tg : Int)) from row_cells H.out.ts 6 _ rfl)
          have d7 := Lib.hid (show wr.cell? ⟨g7, 7, none⟩ = some (.int .u64 (th : Int)) from row_cells H.out.ts 7 _ rfl)
          have hln : (n : Int) < 80 := by omega
          have E1 : Hid (∀ w, Calls Try.prog 50 #[.int .u64 (te : Int), .int .i64 14] w fun e w' => e = .returned (.int .u64 (rotr te 14)) ∧ w' = w) := fun w => (rrot_any te 14 w HT.out.e (by omega) (by omega)).mono fun e w' h => ⟨h.1, h.2.symm⟩
          have E2 : Hid (∀ w, Calls Try.prog 50 #[.int .u64 (te : Int), .int .i64 18] w fun e w' => e = .returned (.int .u64 (rotr te 18)) ∧ w' = w) := fun w => (rrot_any te 18 w HT.out.e (by omega) (by omega)).mono fun e w' h => ⟨h.1, h.2.symm⟩
          have E3 : Hid (∀ w, Calls Try.prog 50 #[.int .u64 (te : Int), .int .i64 41] w fun e w' => e = .returned (.int .u64 (rotr te 41)) ∧ w' = w) := fun w => (rrot_any te 41 w HT.out.e (by omega) (by omega)).mono fun e w' h => ⟨h.1, h.2.symm⟩
          have A1 : Hid (∀ w, Calls Try.prog 50 #[.int .u64 (ta : Int), .int .i64 28] w fun e w' => e = .returned (.int .u64 (rotr ta 28)) ∧ w' = w) := fun w => (rrot_any ta 28 w HT.out.a (by omega) (by omega)).mono fun e w' h => ⟨h.1, h.2.symm⟩
          have A2 : Hid (∀ w, Calls Try.prog 50 #[.int .u64 (ta : Int), .int .i64 34] w fun e w' => e = .returned (.int .u64 (rotr ta 34)) ∧ w' = w) := fun w => (rrot_any ta 34 w HT.out.a (by omega) (by omega)).mono fun e w' h => ⟨h.1, h.2.symm⟩
          have A3 : Hid (∀ w, Calls Try.prog 50 #[.int .u64 (ta : Int), .int .i64 39] w fun e w' => e = .returned (.int .u64 (rotr ta 39)) ∧ w' = w) := fun w => (rrot_any ta 39 w HT.out.a (by omega) (by omega)).mono fun e w' h => ⟨h.1, h.2.symm⟩
          go_wp2_with fail
          go_quiet (fail)
          have HX1 : Hid (∀ W, W = wr.drewN nq → W.cell? ⟨g7, 1, none⟩ = some (.int .u64 (tb : Int)) ∧ W.cell? ⟨g7, 2, none⟩ = some (.int .u64 (tc : Int)) ∧ W.cell? ⟨g7, 3, none⟩ = some (.int .u64 (td : Int)) ∧ W.cell? ⟨g7, 5, none⟩ = some (.int .u64 (tf : Int)) ∧ W.cell? ⟨g7, 6, none⟩ = some (.int .u64 (tg : Int)) ∧ W.cell? ⟨g7, 7, none⟩ = some (.int .u64 (th : Int)) ∧ W.cell? ⟨g5, n, none⟩ = some (.int .u64 (kk : Int)) ∧ W.cell? ⟨g6, n, none⟩ = some (.int .u64 (ww : Int))) := Lib.hid (fun W hW => by subst hW; exact ⟨d1.out, d2.out, d3.out, d5.out, d6.out, d7.out, ck.out, cw.out⟩)
          have H2 := Lib.hid (H.out.drewN nq)
          obtain ⟨wq, hwq⟩ : ∃ wq, wq = wr.drewN nq := ⟨_, rfl⟩
          have Y1 := Lib.hid (HX1.out wq hwq)
          rw [← hwq] at H2 ⊢
          clear hwq HX1 H d0 d1 d2 d3 d4 d5 d6 d7 ck cw
          go_wp2_with fail
          obtain ⟨y1, y2, y3, y5, y6, y7, yk, yw⟩ := Y1.out
          go_quiet ((first | (go_at_call 50; with_reducible exact Calls.quiet_of_same (E1.out _)) | (go_at_call 50; with_reducible exact Calls.quiet_of_same (E2.out _)) | (go_at_call 50; with_reducible exact Calls.quiet_of_same (E3.out _))))
          rw [tri_bits 14 18 41 HT.out.e, t1_bits ta tb tc td te tf tg th kk ww HT.out]
          have HS : Hid (RR (n + 1) s = ⟨(St.t1 ⟨ta, tb, tc, td, te, tf, tg, th⟩ kk ww + St.t2 ⟨ta, tb, tc, td, te, tf, tg, th⟩) % 18446744073709551616, ta, tb, tc, (td + St.t1 ⟨ta, tb, tc, td, te, tf, tg, th⟩ kk ww) % 18446744073709551616, te, tf, tg⟩) := by rw [HN.out]; exact rfl
          clear HN
          generalize St.t1 ⟨ta, tb, tc, td, te, tf, tg, th⟩ kk ww = z1 at *
          have HX2 : Hid (∀ W, W = wq.drewN nq → W.cell? ⟨g7, 1, none⟩ = some (.int .u64 (tb : Int)) ∧ W.cell? ⟨g7, 2, none⟩ = some (.int .u64 (tc : Int)) ∧ W.cell? ⟨g7, 3, none⟩ = some (.int .u64 (td : Int)) ∧ W.cell? ⟨g7, 5, none⟩ = some (.int .u64 (tf : Int)) ∧ W.cell? ⟨g7, 6, none⟩ = some (.int .u64 (tg : Int))) := Lib.hid (fun W hW => by subst hW; obtain ⟨y1, y2, y3, y5, y6, y7, yk, yw⟩ := Y1.out; exact ⟨y1, y2, y3, y5, y6⟩)
          have H3 := Lib.hid (H2.out.drewN nq)
          obtain ⟨wp, hwp⟩ : ∃ wp, wp = wq.drewN nq := ⟨_, rfl⟩
          have Y2 := Lib.hid (HX2.out wp hwp)
          rw [← hwp] at H3 ⊢
          clear hwp HX2 H2 Y1 y1 y2 y3 y5 y6 y7 yk yw E1 E2 E3
          go_wp2_with fail
          obtain ⟨y1, y2, y3, y5, y6⟩ := Y2.out
          go_quiet ((first | (go_at_call 50; with_reducible exact Calls.quiet_of_same (A1.out _)) | (go_at_call 50; with_reducible exact Calls.quiet_of_same (A2.out _)) | (go_at_call 50; with_reducible exact Calls.quiet_of_same (A3.out _))))
          rw [tri_bits 28 34 39 HT.out.a, t2_bits ta tb tc td te tf tg th HT.out]
          generalize St.t2 ⟨ta, tb, tc, td, te, tf, tg, th⟩ = z2 at *
          have HA1 := Lib.hid (add_bits z1 z2)
          have HA5 := Lib.hid (add_bits td z1)
          generalize (z1 + z2) % 18446744073709551616 = n1 at *
          generalize (td + z1) % 18446744073709551616 = n5 at *
          have HX3 : Hid (∀ W, W = wp.drewN nq → W.cell? ⟨g7, 1, none⟩ = some (.int .u64 (tb : Int)) ∧ W.cell? ⟨g7, 2, none⟩ = some (.int .u64 (tc : Int)) ∧ W.cell? ⟨g7, 3, none⟩ = some (.int .u64 (td : Int)) ∧ W.cell? ⟨g7, 5, none⟩ = some (.int .u64 (tf : Int)) ∧ W.cell? ⟨g7, 6, none⟩ = some (.int .u64 (tg : Int))) := Lib.hid (fun W hW => by subst hW; exact Y2.out)
          have H4 := Lib.hid (H3.out.drewN nq)
          obtain ⟨wn, hwn⟩ : ∃ wn, wn = wp.drewN nq := ⟨_, rfl⟩
          have Y3 := Lib.hid (HX3.out wn hwn)
          rw [← hwn] at H4 ⊢
          clear hwn HX3 H3 Y2 y1 y2 y3 y5 y6 A1 A2 A3
          obtain ⟨y1, y2, y3, y5, y6⟩ := Y3.out
          go_wp2_with ((with_reducible show wpList _ _ _ (⟨none, .store 27 (.tmp 11) (.tmp 161), _, _, _, _⟩ :: _) _ _); go_must (rw [HA1.out, HA5.out]; refine wpList_store_all rfl 27 (.tmp 11) (.tmp 161) rfl g7 rfl (ucs [n1, ta, tb, tc, n5, te, tf, tg]).toArray rfl 27 _ H4.out.ts (sz27 ⟨n1, ta, tb, tc, n5, te, tf, tg⟩) (szeq8 ⟨n1, ta, tb, tc, n5, te, tf, tg⟩ ⟨ta, tb, tc, td, te, tf, tg, th⟩) (ucs_one _) ?_; intro w8 hh8 hg8 hz8; have H5 := Lib.hid (H4.out.put hh8 hg8 hz8); clear hh8 hg8 hz8))
          have H6 : Hid (Rq w g5 g6 g7 s.words X (RR (n + 1) s).words w8) := by rw [HS.out]; exact H5.out
          clear H4 H5 y1 y2 y3 y5 y6 Y3
          go_roundw
          case rel =>
            first | exact ⟨n + 1, by omega, by go_num, H6.out⟩ | ((repeat apply Exists.intro); exact ⟨⟨n + 1, by omega, by go_num, H6.out⟩, rfl⟩)
          case measure => simp [intOf]; omega
        · obtain rfl : n = 80 := by omega
          have HM0 : Hid (Rq w g5 g6 g7 s.words X (mix (s.plus (RR 80 s)).words (RR 80 s).words 0) wr) := by rw [mix_none]; exact H.out
          clear hlt hn HSt HF HKG H0 H HRL HSL HFS
          generalize RR 80 s = T at *
          rw [show ((80 : Nat) : Int) = 80 from rfl]
          rename_i hK
          have HK := Lib.hid hK
          clear hK
          go_wp2_with fail
          refine HK.out _ _ ?_
          exact tail42 _ _ _ _ _ _ _ _ _ _ _ _ _ _ _ _ _ _ _ _ _ _ _ _ _ _ _ _ _ _ _ _ _ _ _ _ _ _ _ _ _ _ _ _ _ _ _ _ _ _ _ _ _ _ _ _ _ _ _ _ _ _ _ _ _ _ _ _ _ _ _ _ _ _ _ _ _ _ _ _ _ _ _ _ _ _ _ _ _ _ _ _ _ _ _ _ _ _ _ _ _ _ _ _ _ _ _ _ _ _ _ _ _ _ _ _ _ _ _ _ _ _ _ _ _ _ _ _ _ _ _ _ _ _ _ _ _ _ _ _ _ _ _ _ _ _ _ _ _ _ _ _ _ _ _ _ _ _ _ _ _ _ _ _ _ _ _ _ _ _ _ _ _ w wr g5 g6 g7 s T PP X HPC HM0
end Go.Proofs.Ytphalfpmgbmcaaa
