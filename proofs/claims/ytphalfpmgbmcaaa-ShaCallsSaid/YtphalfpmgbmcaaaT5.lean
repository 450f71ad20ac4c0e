/- Roots, walked. No statement is proved here. -/
import Derived.Test.YtphalfpmgbmcaaaT4
namespace Go.Proofs.Ytphalfpmgbmcaaa
open Go.RowKit
set_option linter.unusedVariables false

theorem bound_words (x d : Nat) (hd : d < 4) (hx : x < X64) : (ucs (wl 0)).toArray.setIfInBounds d (.int .u64 (x : Int)) = (ucs (wl (x * X64 ^ d))).toArray := by
  rw [ucs_set]
  congr 2
  match d, hd with
  | 0, _ => simp [wl, X64] at *; omega
  | 1, _ => simp [wl, X64] at *; omega
  | 2, _ => simp [wl, X64] at *; omega
  | 3, _ => simp [wl, X64] at *; omega

theorem zw_wl : zw 4 = (ucs (wl 0)).toArray := by simp [zw, wl, List.replicate]
theorem or_bit (old r : Nat) (hr : r ≤ 63) (ho : old < 18446744073709551616) : bits .or .u64 (old : Int) (IntKind.u64.wrap (2 ^ r)) = ((old ||| 2 ^ r : Nat) : Int) := by
  have e : ((2 : Int) ^ r) = ((2 ^ r : Nat) : Int) := by simp
  have hl : 2 ^ r < 18446744073709551616 := Nat.pow_lt_pow_right (n := 64) (by omega) (by omega)
  rw [e, wrap_nat, Nat.mod_eq_of_lt hl]
  exact u64_or_nat _ _ ho hl
theorem bit_facts {R q : Nat} (hm : R % 2 ^ (q + 1) = 0) (hle : R + 2 ^ (q + 1) ≤ 2 ^ 80) : R % 2 ^ q = 0 ∧ (R + 2 ^ q) % 2 ^ q = 0 ∧ R + 2 ^ q ≤ 2 ^ 80 ∧ R + 2 ^ q + 2 ^ q ≤ 2 ^ 80 := by
  have h1 : R % 2 ^ q = 0 := by
    have := Nat.mod_mod_of_dvd R (Nat.pow_dvd_pow 2 (show q ≤ q + 1 by omega))
    rw [hm] at this
    simpa using this.symm
  rw [Nat.pow_succ] at hle
  have h0 := Nat.two_pow_pos q
  exact ⟨h1, by rw [Nat.add_mod_right, h1], by omega, by omega⟩
/-- The memory of a root. -/
structure Rt (B : Nat) (w0 : World) (b R : Nat) (w : World) : Prop where
  b0 : w.heap[B]? = some (.cells (ucs (wl b)).toArray 62 (0, 0))
  b1 : w.heap[B + 1]? = some (.cells (ucs (wl R)).toArray 62 (0, 0))
  lt : B + 2 ≤ w.heap.size
  bel : Below B w0 w
theorem Rt.below {B : Nat} {w0 : World} {b R : Nat} {w w' : World} (h : Rt B w0 b R w) (hb : Below w.heap.size w w') : Rt B w0 b R w' := by
  have := h.lt
  exact ⟨(hb.block _ (by omega)).trans h.b0, (hb.block _ (by omega)).trans h.b1, Nat.le_trans h.lt hb.size, h.bel.trans (hb.mono (by omega))⟩

set_option maxRecDepth 100000 in
set_option maxHeartbeats 1000000 in
theorem fraction_any (n d : Nat) (h2 : 2 ≤ d) (h3 : d ≤ 3) (w : World) : Calls Try.prog 34 #[.int .u64 n, .int .i64 d] w (Gives (.int .u64 ((rootN (n % 4294967296) d % X64 : Nat) : Int)) w) := by
  have hdi : (d : Int) < 4 := by omega
  have HLD : Hid (∀ (w : World) g D t, w.heap[g]? = some (.cells (ucs (wl D)).toArray t (0, 0)) → ∀ i u, (ucs (wl D))[i]? = some u → w.cell? ⟨g, 0 + i, none⟩ = some u) := fun w g D t h i u hu => by
    rw [Nat.zero_add]
    exact row_cells h i u (by simpa using hu)
  have HBW := Lib.hid (bound_words (n % 4294967296) d (by omega) (by have := Nat.mod_lt n (show 0 < 4294967296 by omega); unfold X64; omega))
  have HN : Hid (n % 4294967296 < 4294967296) := Nat.mod_lt n (by omega)
  have HC := Lib.hid (show (n : Int) % 4294967296 = ((n % 4294967296 : Nat) : Int) from by omega)
  generalize n % 4294967296 = x at *
  have HFW : Hid (∀ w0 w1 : World, w0.heap[w.heap.size]? = some (.cells (Value.agg (zw 4)).cells 62 (0, 0)) → w0.heap.size = w.heap.size + 1 → w0.grownBy w1 none → w1.heap[w.heap.size]? = some (.cells (zw 4) 62 (0, 0))) := fun w0 w1 h0 z0 g1 => (g1.block _ (by omega) (by simp)).trans h0
  have HZD := Lib.hid (show d < (zw 4).size from by simp [zw, ucs_len]; omega)
  have M1 : Hid True := trivial
  go_enter Try.func34, Try.ntmps34
  go_wp2_with (first | (clear M1; with_reducible refine wpList_alloc_row rfl 62 rfl (.agg (zw 4)) zero62 ?_; intro w0 hh0 hz0 hg0; have HZ0 := Lib.hid hz0) | (with_reducible refine wpList_alloc_row rfl 62 rfl (.agg (zw 4)) zero62 ?_; intro w1 hh1 hz1 hg1; have HZ1 := Lib.hid hz1; have HH := Lib.hid (HFW.out w0 w1 hh0 HZ0.out hg1)) | ((with_reducible show wpList _ _ _ (⟨none, .store 24 (.tmp 13) (.tmp 12), _, _, _, _⟩ :: _) _ _); refine wpList_store_one rfl 24 (.tmp 13) (.tmp 12) rfl w.heap.size d rfl .u64 _ rfl 62 _ HH.out size24 HZD.out ?_; intro w2 hh2 hg2 hz2))
  rw [HC.out, zw_wl, HBW.out] at hh2
  have HR : Hid (Rt w.heap.size w (x * X64 ^ d) 0 w2) := by
    have z0 := HZ0.out
    have z1 := HZ1.out
    refine ⟨hh2, ?_, by omega, ?_⟩
    · refine (hg2.block _ (by omega) (by simp)).trans ?_
      rw [← zw_wl, ← z0]
      exact hh1
    · exact ((below_of_grownBy hg0).grown hg1 (by omega) (by simp)).grown hg2 (by omega) (fun r hr => by injection hr; omega)
  clear hh0 hg0 HZ0 hh1 hg1 HZ1 hh2 hg2 HH HBW HC
  have HFIN : Hid (rootN x d = srch (x * X64 ^ d) d 80 0) := rfl
  have HB4 : Hid (x * X64 ^ d < X64 ^ 4) := by
    have h := Nat.pow_le_pow_right X64_pos h3
    have hx := HN.out
    have h5 : x * X64 ^ d < X64 * X64 ^ 3 := Nat.mul_lt_mul_of_lt_of_le (by unfold X64; omega) h (by exact Nat.pow_pos X64_pos)
    have e : X64 * X64 ^ 3 = X64 ^ 4 := by rw [Nat.mul_comm]; rfl
    exact e ▸ h5
  generalize rootN x d = F at *
  generalize x * X64 ^ d = b at *
  go_loopw [7] (fun i wr => ∃ k : Nat, ∃ R : Nat, k ≤ 80 ∧ i = .int .i64 ((k : Int) - 1) ∧ srch b d k R = F ∧ R % 2 ^ k = 0 ∧ R + 2 ^ k ≤ 2 ^ 80 ∧ Rt w.heap.size w b R wr) (fun i _ => (intOf i + 1).toNat)
  case atStart => exact ⟨80, 0, by omega, rfl, HFIN.out.symm, by simp, by simp, HR.out⟩
  case round =>
    obtain ⟨k, R, hk, rfl, hs, hm, hle, hrt⟩ := hrel
    have H := Lib.hid hrt
    have HS := Lib.hid hs
    have HM := Lib.hid hm
    have HLE := Lib.hid hle
    have hlt0 := hrt.lt
    clear hrt hs hm hle HR HFIN
    by_cases hk0 : k = 0
    · subst hk0
      have hF : R = F := HS.out
      subst hF
      have hc := word_cell H.out.b1 0 (by rw [wl_len]; omega)
      have hg : (wl R).getD 0 0 = R % X64 := rfl
      rw [hg] at hc
      clear hg HS HM HLE HB4 HN
      generalize R % X64 = v at *
      rw [show (((0 : Nat) : Int) - 1) = -1 from rfl]
      go_wp2
      go_ret
      exact ⟨rfl, H.out.bel⟩
    · obtain ⟨q, rfl⟩ : ∃ q, k = q + 1 := ⟨k - 1, by omega⟩
      have e1 : (((q + 1 : Nat) : Int) - 1) = (q : Int) := by omega
      rw [e1]
      clear hk0 e1
      have hq : q < 80 := by omega
      have HCR := Lib.hid (HLD.out wr (w.heap.size + 1) R 62 H.out.b1)
      go_wp2_with (first | (with_reducible refine wpList_alloc_row rfl 62 rfl (.agg (zw 4)) zero62 ?_; intro w3 hh3 hz3 hg3; have HH3 := Lib.hid hh3; have HG3 := Lib.hid hg3; have HZ3 := Lib.hid hz3; clear hh3 hg3) | ((with_reducible show wpList _ _ _ (⟨_, .load 62 (.tmp 6), _, _, _, _⟩ :: _) _ _); refine wpList_load_arr rfl 62 (.tmp 6) rfl (w.heap.size + 1) 0 rfl (ucs (wl R)) HCR.out _ under62 rfl (szl R) ?_) | ((with_reducible show wpList _ _ _ (⟨none, .store 62 (.tmp 8) (.tmp 18), _, _, _, _⟩ :: _) _ _); refine wpList_store_all rfl 62 (.tmp 8) (.tmp 18) rfl wr.heap.size rfl (ucs (wl R)).toArray rfl 62 (zw 4) HH3.out (szw R) rfl (ucs_one _) ?_; intro w4 hh4 hg4 hz4))
      have H4 : Hid (Rt w.heap.size w b R w4 ∧ w4.heap[wr.heap.size]? = some (.cells (ucs (wl R)).toArray 62 (0, 0)) ∧ wr.heap.size < w4.heap.size ∧ Below wr.heap.size wr w4) := by
        have hb : Below wr.heap.size wr w4 := ((Below.refl _ wr).grown HG3.out (Nat.le_refl _) (by simp)).grown hg4 (by have := HZ3.out; omega) (fun r hr => by injection hr; omega)
        exact ⟨H.out.below hb, hh4, by have := HZ3.out; omega, hb⟩
      clear hh4 hg4 hz4 HH3 HG3 HZ3 H HCR
      have hq64 : q / 64 < 4 := by omega
      have hb8 := word_cell H4.out.2.1 (q / 64) (by rw [wl_len]; exact hq64)
      have HWB := Lib.hid (wl_bit R q HM.out hq)
      have HOLD : Hid ((wl R).getD (q / 64) 0 < 18446744073709551616) := by rw [wl_get R _ hq64]; exact Nat.mod_lt _ X64_pos
      generalize (wl R).getD (q / 64) 0 = old at *
      have HOR : Hid (bits .or .u64 (old : Int) ((2 ^ (q % 64) : Nat) : Int) = ((old ||| 2 ^ (q % 64) : Nat) : Int)) := u64_or_nat _ _ HOLD.out (Nat.pow_lt_pow_right (n := 64) (by omega) (by omega))
      have hb8' : ({ heap := w4.heap, tape := w4.tape, drawn := w4.drawn + 1, os := w4.os, output := w4.output } : World).cell? ⟨wr.heap.size, q / 64, none⟩ = some (.int .u64 (old : Int)) := hb8
      have wq : IntKind.i64.wrap ((q : Int) / 64) = ((q / 64 : Nat) : Int) := (IntWalk.i64_in _ (by omega)).trans (by omega)
      have wr1 : IntKind.i64.wrap ((q : Int) % 64) = ((q % 64 : Nat) : Int) := (IntWalk.i64_in _ (by omega)).trans (by omega)
      have wr2 : (q : Int) % 64 = ((q % 64 : Nat) : Int) := by omega
      have hr64 : ((q % 64 : Nat) : Int) ≤ 63 := by omega
      have hr64' : q % 64 ≤ 63 := by omega
      have hqd : ((q / 64 : Nat) : Int) < 4 := by omega
      have t1 : (q : Int).tdiv 64 = (q : Int) / 64 := Int.tdiv_eq_ediv_of_nonneg (by omega)
      have t2 : (q : Int).tmod 64 = (q : Int) % 64 := Int.tmod_eq_emod_of_nonneg (by omega)
      generalize q / 64 = qa at *
      generalize q % 64 = qr at *
      go_wp2
      go_still_tail 9, (by kernel_rfl)
      have WOR := Lib.hid (or_bit old qr hr64' HOLD.out)
      have HWD : Hid (Rt w.heap.size w b R { heap := w4.heap, tape := w4.tape, drawn := w4.drawn + 1, os := w4.os, output := w4.output } ∧ ({ heap := w4.heap, tape := w4.tape, drawn := w4.drawn + 1, os := w4.os, output := w4.output } : World).heap[wr.heap.size]? = some (.cells (ucs (wl R)).toArray 62 (0, 0)) ∧ wr.heap.size < ({ heap := w4.heap, tape := w4.tape, drawn := w4.drawn + 1, os := w4.os, output := w4.output } : World).heap.size) :=
        ⟨⟨H4.out.1.b0, H4.out.1.b1, H4.out.1.lt, below_drewN' H4.out.1.bel 1⟩, H4.out.2.1, H4.out.2.2.1⟩
      clear hb8 hb8' H4 wq wr1 wr2 t1 t2
      generalize ({ heap := w4.heap, tape := w4.tape, drawn := w4.drawn + 1, os := w4.os, output := w4.output } : World) = wd at *
      refine wpList_store_one rfl 24 (.tmp 27) (.tmp 26) rfl wr.heap.size qa rfl .u64 _ rfl 62 _ HWD.out.2.1 size24 (by simp [ucs_len, wl_len]; omega) ?_
      intro w5 hh5 hg5 hz5
      rw [WOR.out, ucs_set, HWB.out] at hh5
      have hN : wr.heap.size < w5.heap.size := by have := HWD.out.2.2; omega
      have H5 : Hid (Rt w.heap.size w b R w5) := ⟨(hg5.block _ (by have := HWD.out.2.2; omega) (by simp; omega)).trans HWD.out.1.b0, (hg5.block _ (by have := HWD.out.2.2; omega) (by simp; omega)).trans HWD.out.1.b1, by omega, HWD.out.1.bel.grown hg5 (by have := HWD.out.2.2; omega) (fun r hr => by injection hr; omega)⟩
      have HM5 := Lib.hid hh5
      have HB5 := Lib.hid (HLD.out w5 w.heap.size b 62 H5.out.b0)
      clear hh5 hg5 hz5 HWD WOR HWB
      have HQQ : Hid (R % 2 ^ q = 0 ∧ (R + 2 ^ q) % 2 ^ q = 0 ∧ R + 2 ^ q ≤ 2 ^ 80 ∧ R + 2 ^ q + 2 ^ q ≤ 2 ^ 80) := bit_facts HM.out HLE.out
      have HSU : Hid (srch b d (q + 1) R = srch b d q (if (R + 2 ^ q) ^ d ≤ b then R + 2 ^ q else R)) := rfl
      generalize R + 2 ^ q = M at *
      have HMD : Hid (M ^ d < X64 ^ 4) := by
        have a := HQQ.out.2.2.1
        have b1 : M ^ d ≤ (2 ^ 80) ^ d := Nat.pow_le_pow_left a d
        have b2 : ((2 : Nat) ^ 80) ^ d ≤ (2 ^ 80) ^ 3 := Nat.pow_le_pow_right (by omega) h3
        have b3 : ((2 : Nat) ^ 80) ^ 3 < X64 ^ 4 := by decide
        show M ^ d < X64 ^ 4
        omega
      have HL8 : Hid (∀ w', Below (wr.heap.size + 1) w5.drew w' → ∀ i u, (ucs (wl M))[i]? = some u → w'.cell? ⟨wr.heap.size, 0 + i, none⟩ = some u) := fun w' hk => HLD.out w' wr.heap.size M 62 ((hk.block wr.heap.size (by omega)).trans HM5.out)
      have HL5 : Hid (∀ w', Below (wr.heap.size + 1) w5.drew w' → ∀ i u, (ucs (wl b))[i]? = some u → w'.cell? ⟨w.heap.size, 0 + i, none⟩ = some u) := fun w' hk => HLD.out w' w.heap.size b 62 ((hk.block w.heap.size (by omega)).trans H5.out.b0)
      go_wp2_with fail
      refine startW (fun _ => false) (wr.heap.size + 1) (by kernel_rfl) ?_
      refine takeW (i := 0) (oi := { dst := some 28, op := Op.load 62 (Operand.tmp 8), type := 62, pos := "root.go:28", after := #[], guard := none }) (.agg (ucs (wl M)).toArray) rfl (by kernel_rfl) (by kernel_rfl) (by kernel_rfl) (by kernel_rfl) (fun _ _ _ h => h) (by rfl) (fun w' hk => exec_load 62 (.tmp 8) rfl wr.heap.size 0 rfl (ucs (wl M)) (HL8.out w' hk) _ under62 rfl (szl M)) ?_
      simp only [Act.put, List.setIfInBounds_toArray, List.set_cons_zero, List.set_cons_succ]
      refine takeAE (i := 1) (oi := { dst := some 29, op := Op.move (Operand.tmp 1), type := 3, pos := "root.go:28", after := #[], guard := none }) rfl (by kernel_rfl) (by kernel_rfl) (by kernel_rfl) (fun _ _ _ _ h => h) (by rfl) ?_
      apply Exists.intro
      refine ⟨fun w' => ?_, ?_⟩
      · go_simp <;> with_reducible rfl
      simp only [Act.put, List.setIfInBounds_toArray, List.set_cons_zero, List.set_cons_succ]
      refine takeW (i := 3) (oi := { dst := some 31, op := Op.load 62 (Operand.tmp 5), type := 62, pos := "root.go:28", after := #[], guard := none }) (.agg (ucs (wl b)).toArray) rfl (by kernel_rfl) (by kernel_rfl) (by kernel_rfl) (by kernel_rfl) (fun _ _ _ h => h) (by rfl) (fun w' hk => exec_load 62 (.tmp 5) rfl w.heap.size 0 rfl (ucs (wl b)) (HL5.out w' hk) _ under62 rfl (szl b)) ?_
      simp only [Act.put, List.setIfInBounds_toArray, List.set_cons_zero, List.set_cons_succ]
      refine callW (i := 2) (oi := { dst := some 30, op := Op.call { callee := Callee.value (Operand.func 46), args := #[Operand.tmp 28, Operand.tmp 29], argTypes := #[62, 3] }, type := 62, pos := "root.go:28", after := #[{ on := 0, ground := Ground.data }, { on := 1, ground := Ground.data }], guard := none }) rfl (by kernel_rfl) (by rfl) ?_ ((power_any M d (by omega) h3 w5.drew).mono ?_)
      · go_simp
      rintro e6 w6 ⟨rfl, hb6⟩
      refine ⟨_, rfl, fun _ => hb6.mono (by show wr.heap.size + 1 ≤ w5.heap.size; omega), ?_⟩
      simp only [Act.put, List.setIfInBounds_toArray, List.set_cons_zero, List.set_cons_succ]
      have z6 : w5.heap.size ≤ w6.heap.size := hb6.size
      refine callW (i := 4) (oi := { dst := some 32, op := Op.call { callee := Callee.value (Operand.func 45), args := #[Operand.tmp 30, Operand.tmp 31], argTypes := #[62, 62] }, type := 4, pos := "root.go:28", after := #[{ on := 2, ground := Ground.data }, { on := 3, ground := Ground.data }, { on := 2, ground := Ground.chain }], guard := none }) rfl (by kernel_rfl) (by rfl) ?_ ((above_any (M ^ d) b HMD.out HB4.out w6).mono ?_)
      · go_simp
      rintro e7 w7 ⟨rfl, hb7⟩
      refine ⟨_, rfl, fun _ => hb7.mono (by omega), ?_⟩
      simp only [Act.put, List.setIfInBounds_toArray, List.set_cons_zero, List.set_cons_succ]
      have hb57 : Below w5.heap.size w5 w7 := (((below_drewN' (Below.refl w5.heap.size w5) 1)).trans hb6).trans (hb7.mono z6)
      have H7 := Lib.hid (H5.out.below hb57)
      have HM7 : Hid (w7.heap[wr.heap.size]? = some (.cells (ucs (wl M)).toArray 62 (0, 0))) := (hb57.block _ hN).trans HM5.out
      have z7 : w5.heap.size ≤ w7.heap.size := hb57.size
      clear hb6 hb7 hb57 HL8 HL5 H5 HM5 HB5
      refine takeAE (i := 5) (oi := { dst := some 33, op := Op.unOp UnOp.not 4 (Operand.tmp 32), type := 4, pos := "root.go:28", after := #[{ on := 4, ground := Ground.data }], guard := none }) rfl (by kernel_rfl) (by kernel_rfl) (by kernel_rfl) (fun _ _ _ _ h => h) (by rfl) ?_
      apply Exists.intro
      refine ⟨fun w' => ?_, ?_⟩
      · go_simp <;> with_reducible rfl
      simp only [Act.put, List.setIfInBounds_toArray, List.set_cons_zero, List.set_cons_succ]
      refine doneW (by kernel_rfl) ?_ _
      have HLL := Lib.hid (HLD.out w7 wr.heap.size M 62 HM7.out)
      by_cases hcmp : M ^ d ≤ b
      · have hdec : decide (b < M ^ d) = false := by simp; omega
        rw [if_pos hcmp] at HSU
        rw [hdec]
        clear hcmp hdec
        go_wp2_with (first | ((with_reducible show wpList _ _ _ (⟨_, .load 62 (.tmp 8), _, _, _, _⟩ :: _) _ _); refine wpList_load_arr rfl 62 (.tmp 8) rfl wr.heap.size 0 rfl (ucs (wl M)) HLL.out _ under62 rfl (szl M) ?_) | ((with_reducible show wpList _ _ _ (⟨none, .store 62 (.tmp 6) (.tmp 34), _, _, _, _⟩ :: _) _ _); refine wpList_store_all rfl 62 (.tmp 6) (.tmp 34) rfl (w.heap.size + 1) rfl (ucs (wl M)).toArray rfl 62 (ucs (wl R)).toArray H7.out.b1 (szw M) rfl (ucs_one _) ?_; intro w8 hh8 hg8 hz8))
        have H8 : Hid (Rt w.heap.size w b M w8) := ⟨(hg8.block _ (by omega) (by simp)).trans H7.out.b0, hh8, by omega, H7.out.bel.grown hg8 (by omega) (fun r hr => by injection hr; omega)⟩
        clear hh8 hg8 hz8 H7 HM7 HLL
        go_wp2
        go_roundw
        case rel =>
          first | exact ⟨q, M, by omega, by go_num, by rw [← HSU.out]; exact HS.out, HQQ.out.2.1, HQQ.out.2.2.2, H8.out⟩ | ((repeat apply Exists.intro); exact ⟨⟨q, M, by omega, by go_num, by rw [← HSU.out]; exact HS.out, HQQ.out.2.1, HQQ.out.2.2.2, H8.out⟩, rfl⟩)
        case measure => first | (simp [intOf]; done) | (simp [intOf]; omega)
      · have hdec : decide (b < M ^ d) = true := by simp; omega
        rw [if_neg hcmp] at HSU
        rw [hdec]
        have HLE2 : Hid (R + 2 ^ q ≤ 2 ^ 80) := by have := HLE.out; rw [Nat.pow_succ] at this; have h0 := Nat.two_pow_pos q; show R + 2 ^ q ≤ 2 ^ 80; omega
        clear hcmp hdec HM7 HLL
        go_wp2
        go_roundw
        case rel =>
          first | exact ⟨q, R, by omega, by go_num, by rw [← HSU.out]; exact HS.out, HQQ.out.1, HLE2.out, H7.out⟩ | ((repeat apply Exists.intro); exact ⟨⟨q, R, by omega, by go_num, by rw [← HSU.out]; exact HS.out, HQQ.out.1, HLE2.out, H7.out⟩, rfl⟩)
        case measure => first | (simp [intOf]; done) | (simp [intOf]; omega)

theorem root_any (n : Nat) (w : World) : Calls Try.prog 13 #[.int .u64 n] w (Gives (.int .u64 ((rootN (n % 4294967296) 2 % X64 : Nat) : Int)) w) := by
  have hF : Hid (∀ w, Calls Try.prog 34 #[.int .u64 (n : Int), .int .i64 2] w (Gives (.int .u64 ((rootN (n % 4294967296) 2 % X64 : Nat) : Int)) w)) := fun w => fraction_any n 2 (by omega) (by omega) w
  generalize rootN (n % 4294967296) 2 % X64 = v at *
  go_enter Try.func13, Try.ntmps13
  go_wp2_with fail
  refine (hF.out _).mono ?_
  rintro e w' ⟨rfl, hb⟩
  go_wp2
  go_ret
  exact ⟨rfl, hb⟩
theorem cube_any (n : Nat) (w : World) : Calls Try.prog 14 #[.int .u64 n] w (Gives (.int .u64 ((rootN (n % 4294967296) 3 % X64 : Nat) : Int)) w) := by
  have hF : Hid (∀ w, Calls Try.prog 34 #[.int .u64 (n : Int), .int .i64 3] w (Gives (.int .u64 ((rootN (n % 4294967296) 3 % X64 : Nat) : Int)) w)) := fun w => fraction_any n 3 (by omega) (by omega) w
  generalize rootN (n % 4294967296) 3 % X64 = v at *
  go_enter Try.func14, Try.ntmps14
  go_wp2_with fail
  refine (hF.out _).mono ?_
  rintro e w' ⟨rfl, hb⟩
  go_wp2
  go_ret
  exact ⟨rfl, hb⟩
end Go.Proofs.Ytphalfpmgbmcaaa
