/- The reference's run over all pieces. No statement is proved here. -/
import Derived.Test.YtphalfpmgbmcaaaCG
import Derived.Test.YtphalfpmgbmcaaaCF
namespace Go.Proofs.Ytphalfpmgbmcaaa
open Go.RowKit
set_option linter.unusedVariables false
set_option linter.unusedSimpArgs false

/-- The words and the result of a run. -/
structure Ru (w0 : World) (s : List Nat) (W : World) : Prop where
  st : W.heap[w0.heap.size]? = some (.cells (ucs s).toArray 27 (0, 0))
  res : W.heap[w0.heap.size + 1]? = some (.cells (zw 8) 27 (0, 0))
  lt : w0.heap.size + 1 < W.heap.size
  bel : Below w0.heap.size w0 W
theorem Ru.keep {w0 : World} {s : List Nat} {W W' : World} (h : Ru w0 s W) (hb : Below W.heap.size W W') : Ru w0 s W' := by
  have := h.lt
  exact ⟨(hb.block _ (by omega)).trans h.st, (hb.block _ (by omega)).trans h.res, Nat.lt_of_lt_of_le h.lt hb.size, h.bel.trans (hb.mono (by omega))⟩
theorem Ru.put {w0 : World} {s s' : List Nat} {W W' : World} (h : Ru w0 s W) (hh : W'.heap[w0.heap.size]? = some (.cells (ucs s').toArray 27 (0, 0))) (hg : W.grownBy W' (some w0.heap.size)) (hz : W'.heap.size = W.heap.size) : Ru w0 s' W' := by
  have := h.lt
  exact ⟨hh, (hg.block _ (by omega) (by simp)).trans h.res, by omega, h.bel.grown hg (by omega) (fun r hr => by injection hr; omega)⟩
theorem runN_next (s : St) (P : List UInt8) (j : Nat) : runN s P (j + 1) = piece (runN s P j) ((P.drop (128 * j)).take 128) := rfl
theorem sumS_runN (s : St) (l : List UInt8) : sumS s l = runN s (padded l) ((padded l).length / 128) := rfl
theorem runN_zero (s : St) (P : List UInt8) : runN s P 0 = s := rfl

set_option maxRecDepth 100000 in
set_option maxHeartbeats 2000000 in
theorem rrun_any (s : St) (hs : s.Fits) (l : List UInt8) (w : World) (S : Nat → Prop) (A : Option Addr) (n c : Nat) (hsrc : Src w S A n (bcs l)) (hS : ∀ b, S b → b < w.heap.size) (hn : n ≤ 1000000000) :
    Calls Try.prog 38 #[.agg (ucs s.words).toArray, .slice A n c] w (Gives (.agg (ucs (sumS s l).words).toArray) w) := by
  have hl := src_len hsrc
  subst hl
  have HFN := Lib.hid (fun P k => runN_fits s P hs k)
  have HSM := Lib.hid (sumS_runN s l)
  have HSRC := Lib.hid hsrc
  have hz0 := zn_lt l.length
  have hpl := padded_len_eq l
  have HPM := Lib.hid (padded_len l)
  have HNX := Lib.hid (runN_next s)
  have HRZ := Lib.hid (runN_zero s)
  have HPC := Lib.hid (fun (s : St) (hs : s.Fits) (blk : List UInt8) (hl : blk.length = 128) W S A c h1 h2 => rpiece_any s hs blk hl W S A c h1 h2)
  clear hs hsrc
  generalize sumS s l = FIN at *
  go_enter Try.func38, Try.ntmps38
  go_wp2_with (first | (with_reducible refine wpList_alloc_row rfl 27 rfl (.agg (zw 8)) zero27 ?_; intro w1 hh1 hz1 hg1))
  simp only [World.size_alloc] at hz1 hh1 ⊢
  have H1 : Hid (Ru w s.words w1) := Lib.hid ⟨(hg1.block _ (by simp) (by simp)).trans (heap_alloc_new w _), hh1, by omega, (below_alloc w _).grown hg1 (by simp) (by simp)⟩
  clear hh1 hg1 hz1
  have HS1 := Lib.hid (HSRC.out.below' H1.out.bel hS)
  have HSB1 : Hid (∀ b, S b → b < w1.heap.size) := Lib.hid (fun b hb => Nat.lt_of_lt_of_le (hS b hb) H1.out.bel.size)
  go_wp2_with fail
  refine (rpad_any l w1 S A l.length c HS1.out HSB1.out hn).mono ?_
  rintro e2 w2 ⟨v2, rfl, ho2, hb2⟩
  obtain ⟨A3, c3, rfl, h3c, h3m, hp⟩ := ho2.src
  have HP := Lib.hid hp
  have H2 := Lib.hid (H1.out.keep hb2)
  have hw12 : w.heap.size + 1 < w1.heap.size := H1.out.lt
  clear ho2 hp hb2 H1 HS1 HSB1 HSRC
  generalize padded l = P at *
  have HNP : Hid (P.length = 128 * (P.length / 128)) := Lib.hid (by have := HPM.out; omega)
  have hP2 : P.length ≤ 1000000200 := by omega
  generalize hN : P.length / 128 = N at *
  clear hN hpl hz0
  have HSR0 := Lib.hid (show runN s P 0 = s from HRZ.out P)
  go_wp2_with fail
  go_loopw [6] (fun i wr => ∃ j x : Nat, j ≤ N ∧ x = 128 * j ∧ i = .int .i64 x ∧ Ru w (runN s P j).words wr ∧ Src wr (fun g => w1.heap.size ≤ g ∧ g < w2.heap.size) A3 P.length (bcs P) ∧ w2.heap.size ≤ wr.heap.size) (fun i _ => P.length - (intOf i).toNat)
  case atStart => exact ⟨0, 0, by omega, rfl, rfl, by rw [HSR0.out]; exact H2.out, HP.out, Nat.le_refl _⟩
  case round =>
    obtain ⟨j, x, hj, hx, rfl, hr, hsp, hsz⟩ := hrel
    have H := Lib.hid hr
    have HX := Lib.hid hx
    have HSP := Lib.hid hsp
    clear hr hsp H2 HP HSR0
    by_cases hlt : j < N
    · have hlt2 : x < P.length := by have := HNP.out; omega
      have hlt3 : x + 128 ≤ P.length := by have := HNP.out; omega
      obtain ⟨A', c', hs1, hq1, hq2, hr1, _, _⟩ := cut_any HSP.out h3c h3m x (x + 128) (by omega) hlt3
      rw [show x + 128 - x = 128 from by omega] at hs1 hr1
      rw [show ((x + 128 : Nat) : Int) = (x : Int) + 128 from by omega] at hr1
      have HBK : Hid (((P.drop (128 * j)).take 128).length = 128) := Lib.hid (by rw [List.length_take, List.length_drop]; omega)
      have HPE := Lib.hid (HNX.out P j)
      have HFS := Lib.hid (HFN.out P j)
      have HJ1 : Hid (runN s P (j + 1) = runN s P (j + 1)) := Lib.hid rfl
      rw [hx] at hs1
      obtain ⟨b', o', rfl, hb', _⟩ := hs1.lies (by omega)
      have HSR : Hid (Src wr.drew (fun g => w1.heap.size ≤ g ∧ g < w2.heap.size) (some ⟨b', o', none⟩) 128 (bcs ((P.drop (128 * j)).take 128))) := Lib.hid (hs1.drewN 1)
      have HSB : Hid (∀ b, (w1.heap.size ≤ b ∧ b < w2.heap.size) → b < wr.drew.heap.size) := Lib.hid (fun b hb => by show b < wr.heap.size; omega)
      have HR1 := Lib.hid hr1
      have hxx : (x : Int) ≤ 1000000200 := by omega
      have HSQ : Hid (∀ W, Below wr.heap.size wr W → Src W (fun g => w1.heap.size ≤ g ∧ g < w2.heap.size) A3 P.length (bcs P)) := Lib.hid (fun W hW => HSP.out.below' hW (fun b hb => by omega))
      clear hs1 hr1 hx HSP
      generalize hs1' : runN s P j = s1 at *
      generalize hs2' : runN s P (j + 1) = s2 at *
      have HE2 := Lib.hid hs2'
      clear hs1' hs2' HJ1
      generalize (P.drop (128 * j)).take 128 = blk at *
      have HLD : Hid (∀ w', Below wr.heap.size wr.drew w' → ∀ i u, (ucs s1.words)[i]? = some u → w'.cell? ⟨w.heap.size, 0 + i, none⟩ = some u) := Lib.hid (fun w' hk i u hu => by
        have := H.out.lt
        rw [Nat.zero_add]; exact row_cells ((hk.block w.heap.size (by omega)).trans H.out.st) i u (by simpa using hu))
      have HU : Hid (∀ x1, Below wr.drew.heap.size wr.drew x1 → Ru w s1.words x1) := Lib.hid (fun x1 hx => (H.out.keep (below_drewN' (Below.refl wr.heap.size wr) 1)).keep hx)
      have i1 : (x : Int) < (P.length : Int) := by omega
      have wx : IntKind.i64.wrap ((x : Int) + 128) = (x : Int) + 128 := IntWalk.i64_in _ (by omega)
      go_wp2_with fail
      refine startW (fun i => i == 7) wr.heap.size (by kernel_rfl) ?_
      refine takeT (i := 0) (oi := { dst := some 15, op := Op.load 27 (Operand.tmp 2), type := 27, pos := "ref.go:152", after := #[], guard := none }) (.agg (ucs s1.words).toArray) rfl (by kernel_rfl) (by kernel_rfl) (by kernel_rfl) (by kernel_rfl) (by kernel_rfl) (fun _ _ _ h => h) (by rfl) (fun w' hk => exec_load 27 (.tmp 2) rfl w.heap.size 0 rfl (ucs s1.words) (HLD.out w' hk) _ under27 rfl (sz27l' s1)) ?_
      simp only [Act.put, List.setIfInBounds_toArray, List.set_cons_zero, List.set_cons_succ]
      refine takeAE (i := 1) (oi := { dst := some 16, op := Op.move (Operand.tmp 5), type := 30, pos := "ref.go:152", after := #[], guard := none }) rfl (by kernel_rfl) (by kernel_rfl) (by kernel_rfl) (fun _ _ _ _ h => h) (by rfl) ?_
      apply Exists.intro
      refine ⟨fun w' => ?_, ?_⟩
      · go_simp <;> with_reducible rfl
      simp only [Act.put, List.setIfInBounds_toArray, List.set_cons_zero, List.set_cons_succ]
      refine takeAE (i := 2) (oi := { dst := some 17, op := Op.move (Operand.tmp 6), type := 3, pos := "ref.go:152", after := #[], guard := none }) rfl (by kernel_rfl) (by kernel_rfl) (by kernel_rfl) (fun _ _ _ _ h => h) (by rfl) ?_
      apply Exists.intro
      refine ⟨fun w' => ?_, ?_⟩
      · go_simp <;> with_reducible rfl
      simp only [Act.put, List.setIfInBounds_toArray, List.set_cons_zero, List.set_cons_succ]
      refine takeAE (i := 3) (oi := { dst := some 18, op := Op.move (Operand.tmp 6), type := 3, pos := "ref.go:152", after := #[], guard := none }) rfl (by kernel_rfl) (by kernel_rfl) (by kernel_rfl) (fun _ _ _ _ h => h) (by rfl) ?_
      apply Exists.intro
      refine ⟨fun w' => ?_, ?_⟩
      · go_simp <;> with_reducible rfl
      simp only [Act.put, List.setIfInBounds_toArray, List.set_cons_zero, List.set_cons_succ]
      refine takeAE (i := 4) (oi := { dst := some 19, op := Op.binOp BinOp.add 3 (Operand.tmp 18) (Operand.const (Value.int IntKind.i64 128)) 3, type := 3, pos := "ref.go:152", after := #[{ on := 3, ground := Ground.data }], guard := none }) rfl (by kernel_rfl) (by kernel_rfl) (by kernel_rfl) (fun _ _ _ _ h => h) (by rfl) ?_
      refine ⟨.int .i64 ((x : Int) + 128), fun w' => by go_simp <;> with_reducible rfl, ?_⟩
      simp only [Act.put, List.setIfInBounds_toArray, List.set_cons_zero, List.set_cons_succ]
      refine takeAE (i := 5) (oi := { dst := some 20, op := Op.slice 30 (Operand.tmp 16) (some (Operand.tmp 17)) (some (Operand.tmp 19)) none, type := 30, pos := "ref.go:152", after := #[{ on := 1, ground := Ground.data }, { on := 2, ground := Ground.data }, { on := 4, ground := Ground.data }], guard := none }) rfl (by kernel_rfl) (by kernel_rfl) (by kernel_rfl) (fun _ _ _ _ h => h) (by rfl) ?_
      refine ⟨.slice (some ⟨b', o', none⟩) 128 c', fun w' => exec_slice 30 (.tmp 16) (some (.tmp 17)) (some (.tmp 19)) rfl _ (HR1.out w'), ?_⟩
      simp only [Act.put, List.setIfInBounds_toArray, List.set_cons_zero, List.set_cons_succ]
      refine callW (i := 6) (oi := { dst := some 21, op := Op.call { callee := Callee.value (Operand.func 42), args := #[Operand.tmp 15, Operand.tmp 20], argTypes := #[27, 30] }, type := 27, pos := "ref.go:152", after := #[{ on := 0, ground := Ground.data }, { on := 5, ground := Ground.data }], guard := none }) rfl (by kernel_rfl) (by rfl) ?_ ((HPC.out s1 HFS.out blk HBK.out _ _ _ c' HSR.out HSB.out).mono ?_)
      · go_simp
      rintro e1 x1 ⟨rfl, hx1⟩
      refine ⟨_, rfl, fun _ => hx1, ?_⟩
      simp only [Act.put, List.setIfInBounds_toArray, List.set_cons_zero, List.set_cons_succ]
      rw [← HPE.out]
      have X1 := Lib.hid (HU.out x1 hx1)
      have YB := Lib.hid hx1
      clear hx1
      refine storeW_all (i := 7) (oi := { dst := none, op := Op.store 27 (Operand.tmp 2) (Operand.tmp 21), type := 0, pos := "ref.go:152", after := #[{ on := 6, ground := Ground.data }, { on := 6, ground := Ground.chain }, { on := 0, ground := Ground.phase }, { on := 1, ground := Ground.phase }, { on := 2, ground := Ground.phase }, { on := 3, ground := Ground.phase }, { on := 4, ground := Ground.phase }, { on := 5, ground := Ground.phase }, { on := 6, ground := Ground.phase }], guard := none }) rfl (by kernel_rfl) (by rfl) 27 (.tmp 2) (.tmp 21) rfl w.heap.size rfl (ucs s2.words).toArray rfl 27 (ucs s1.words).toArray X1.out.st (sz27 s2) (szeq8 s2 s1) (ucs_one _) rfl ?_
      intro x3 hh3 hg3 hz3
      simp only [Act.put]
      refine doneW (by kernel_rfl) ?_ _
      have HF : Hid (Ru w s2.words x3 ∧ Src x3 (fun g => w1.heap.size ≤ g ∧ g < w2.heap.size) A3 P.length (bcs P) ∧ w2.heap.size ≤ x3.heap.size) := by
        have hz : wr.heap.size ≤ x1.heap.size := YB.out.size
        refine ⟨X1.out.put hh3 hg3 hz3, ?_, by omega⟩
        exact (HSQ.out x1 ((below_drewN' (Below.refl wr.heap.size wr) 1).trans YB.out)).grown hg3 (fun b hb => ⟨by omega, by simp; omega⟩) (fun b hb => hb)
      clear hh3 hg3 hz3 X1 YB HU HLD HSQ H
      go_wp2
      go_roundw
      case rel =>
        first | exact ⟨j + 1, x + 128, by omega, by have := HX.out; omega, by go_num, by rw [HE2.out]; exact HF.out.1, HF.out.2.1, HF.out.2.2⟩ | ((repeat apply Exists.intro); exact ⟨⟨j + 1, x + 128, by omega, by have := HX.out; omega, by go_num, by rw [HE2.out]; exact HF.out.1, HF.out.2.1, HF.out.2.2⟩, rfl⟩)
      case measure => simp [intOf]; omega
    · obtain rfl : j = N := by omega
      have hxe : x = P.length := by have := HNP.out; have := HX.out; omega
      subst hxe
      rw [← HSM.out] at H
      clear hlt hj HSP HX HNP
      have HC : Hid (∀ i u, (ucs FIN.words)[i]? = some u → wr.cell? ⟨w.heap.size, 0 + i, none⟩ = some u) := Lib.hid (fun i u hu => by
        rw [Nat.zero_add]; exact row_cells H.out.st i u (by simpa using hu))
      go_wp2_with (first | ((with_reducible show wpList _ _ _ (⟨_, .load 27 (.tmp 2), _, _, _, _⟩ :: _) _ _); go_must (refine wpList_load_arr rfl 27 (.tmp 2) rfl w.heap.size 0 rfl (ucs FIN.words) HC.out _ under27 rfl (sz27l' _) ?_)) | ((with_reducible show wpList _ _ _ (⟨none, .store 27 (.tmp 4) (.tmp 22), _, _, _, _⟩ :: _) _ _); go_must (refine wpList_store_all rfl 27 (.tmp 4) (.tmp 22) rfl (w.heap.size + 1) rfl (ucs FIN.words).toArray rfl 27 (zw 8) H.out.res (sz27 _) (fit8z _) (ucs_one _) ?_; intro w3 hh3 hg3 hz3)))
      have H3 := Lib.hid hh3
      have G3 := Lib.hid hg3
      clear hh3 hg3
      go_wp2
      refine bodyPost_ret (results_cell_row rfl _ _ (w.heap.size + 1) 27 (ucs FIN.words).toArray _ _ rfl H3.out under27 rfl (sz27 _)) rfl ?_
      exact ⟨rfl, H.out.bel.grown G3.out (by have := H.out.lt; omega) (fun r hr => by injection hr; omega)⟩
end Go.Proofs.Ytphalfpmgbmcaaa
