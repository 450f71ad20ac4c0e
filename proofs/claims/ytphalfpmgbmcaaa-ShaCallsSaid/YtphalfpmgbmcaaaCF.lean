/- The reference's bytes of words, and its joining. No statement is proved here. -/
import Derived.Test.YtphalfpmgbmcaaaCE
namespace Go.Proofs.Ytphalfpmgbmcaaa
open Go.RowKit
set_option linter.unusedVariables false
set_option linter.unusedSimpArgs false

set_option maxRecDepth 100000 in
set_option maxHeartbeats 1000000 in
theorem rbytes_any (l : List Nat) (hl : l.length = 8) (hb : ∀ x ∈ l, x < 18446744073709551616) (w : World) :
    Calls Try.prog 37 #[.agg (ucs l).toArray] w (Gives (.agg (bcs (oct l)).toArray) w) := by
  have HL := Lib.hid hl
  have HG : Hid (∀ i, U64 (l.getD i 0)) := fun i => getD_lt hb i
  clear hl hb
  have M1 : Hid True := trivial
  go_enter Try.func37, Try.ntmps37
  go_wp2_with (first | (clear M1; with_reducible refine wpList_alloc_row rfl 22 rfl (.agg (zbs 64)) zero22 ?_; intro w0 hh0 hz0 hg0; have HZ0 := Lib.hid hz0) | (with_reducible refine wpList_alloc_row rfl 22 rfl (.agg (zbs 64)) zero22 ?_; intro w1 hh1 hz1 hg1; have HZ := Lib.hid hz1))
  have HOc : Hid (Oc w.heap.size w l [] w1) := by
    have z0 := HZ0.out
    have z1 := HZ.out
    simp only [World.size_alloc] at z0 hh0
    rw [z0] at z1 hh1
    refine ⟨?_, ?_, ?_, by omega, ?_⟩
    · exact (hg1.block _ (by omega) (by simp)).trans ((hg0.block _ (by simp) (by simp)).trans (heap_alloc_new w _))
    · exact (hg1.block _ (by omega) (by simp)).trans hh0
    · rw [partb_nil]; exact hh1
    · exact (((Below.refl _ _).alloc (Nat.le_refl _) _).grown hg0 (by simp) (by simp)).grown hg1 (by omega) (by simp)
  clear hh0 hg0 HZ0 hh1 hg1 HZ
  go_loopw [4] (fun i wr => ∃ j : Nat, j ≤ 64 ∧ i = .int .i64 j ∧ Oc w.heap.size w l (octN l j) wr) (fun i _ => 64 - (intOf i).toNat)
  case atStart => exact ⟨0, by omega, rfl, HOc.out⟩
  case round =>
    obtain ⟨j, hj, rfl, hsc⟩ := hrel
    have H := Lib.hid hsc
    clear hsc HOc
    by_cases hlt : j < 64
    · have hlt8 : j / 8 < 8 := by omega
      have hc : wr.cell? ⟨w.heap.size, j / 8, none⟩ = some (.int .u64 (l.getD (j / 8) 0 : Nat)) := by
        refine row_cells H.out.b0 _ _ ?_
        rw [List.toList_toArray, ucs_get, List.getD_eq_getElem?_getD, List.getElem?_eq_getElem (by rw [HL.out]; exact hlt8)]
        rfl
      have HO : Hid (octb l j = UInt8.ofNat (l.getD (j / 8) 0 / 2 ^ (56 - 8 * (j % 8)))) := rfl
      have HB := Lib.hid (HG.out (j / 8))
      clear HG
      generalize l.getD (j / 8) 0 = x at *
      have HV : Hid (((x : Int) / 2 ^ (56 - 8 * (j % 8)) % 256) = ((octb l j).toNat : Int)) := byte_of _ _ _ HO.out
      go_wp2_with ((with_reducible show wpList _ _ _ (⟨none, .store 5 (.tmp 21) (.tmp 20), _, _, _, _⟩ :: _) _ _); refine wpList_store_one rfl 5 (.tmp 21) (.tmp 20) rfl (w.heap.size + 2) j rfl .u8 _ rfl 22 _ H.out.b2 size5 (by rw [partb_size _ _ (by rw [octN_len]; omega)]; omega) ?_; intro w3 hh3 hg3 hz3; rw [HV.out] at hh3; have HO3 : Hid (Oc w.heap.size w l (octN l (j + 1)) w3) := (by rw [octN_succ]; exact H.out.snoc _ (by rw [octN_len]; omega) hg3 (by rw [octN_len]; exact hh3)); clear hh3 hg3 hz3)
      go_roundw
      case rel => exact ⟨j + 1, by omega, by go_num, HO3.out⟩
      case measure => simp [intOf]; omega
    · obtain rfl : j = 64 := by omega
      clear hlt hj
      have hoc : octN l 64 = oct l := rfl
      rw [hoc] at H
      clear hoc
      have HR : Hid ((oct l).length = 64) := octN_len l 64
      generalize oct l = R at *
      have HF : Hid (wr.heap[w.heap.size + 2]? = some (.cells (bcs R).toArray 22 (0, 0))) := by
        have := H.out.b2
        rw [partb_full R 64 HR.out] at this
        exact this
      have HC : Hid (∀ i u, (bcs R)[i]? = some u → wr.cell? ⟨w.heap.size + 2, 0 + i, none⟩ = some u) := fun i u hu => by
        rw [Nat.zero_add]
        exact row_cells HF.out i u (by simpa using hu)
      have HSz : Hid ((Try.prog.info? 22).map (·.size) = some (bcs R).length) := by rw [size22, bcs_len, HR.out]; exact rfl
      have HSa : Hid ((Try.prog.info? 22).map (·.size) = some (bcs R).toArray.size) := by rw [HSz.out]; exact rfl
      have HZ := Lib.hid (show (bcs R).toArray.size = (zbs 64).size from by simp [bcs_len, HR.out, zbs])
      have HB2 := Lib.hid H.out.b1
      have HLT := H.out.lt
      have HBL := Lib.hid H.out.bel
      clear HG HF H
      go_wp2_with (first | ((with_reducible show wpList _ _ _ (⟨_, .load 22 (.tmp 3), _, _, _, _⟩ :: _) _ _); refine wpList_load_arr rfl 22 (.tmp 3) rfl (w.heap.size + 2) 0 rfl (bcs R) HC.out _ under22 rfl HSz.out ?_) | ((with_reducible show wpList _ _ _ (⟨none, .store 22 (.tmp 2) (.tmp 22), _, _, _, _⟩ :: _) _ _); refine wpList_store_all rfl 22 (.tmp 2) (.tmp 22) rfl (w.heap.size + 1) rfl (bcs R).toArray rfl 22 (zbs 64) HB2.out HSa.out HZ.out (bcs_one _) ?_; intro w3 hh3 hg3 hz3))
      have H3 := Lib.hid hh3
      have G3 := Lib.hid hg3
      clear hh3 hg3
      go_wp2
      refine bodyPost_ret (results_cell_row rfl _ _ (w.heap.size + 1) 22 (bcs R).toArray _ _ rfl H3.out under22 rfl HSa.out) rfl ?_
      exact ⟨rfl, HBL.out.grown G3.out (by omega) (fun r hr => by injection hr; omega)⟩
set_option maxRecDepth 100000 in
set_option maxHeartbeats 1000000 in
theorem rjoin_any (L : List (List UInt8)) (w : World) (S : Nat → Prop) (P : Option Addr) (pc : Nat) (hp : Parts w S P L) (hS : ∀ b, S b → b < w.heap.size) (hsum : L.flatten.length ≤ 1000000000) (hm : L.length ≤ 1000000000) :
    Calls Try.prog 39 #[.slice P L.length pc] w (GivesB w L.flatten) := by
  have HP := Lib.hid hp
  have HLE : Hid (∀ j, (L.take j).flatten.length ≤ L.flatten.length) := Lib.hid (flat_le L)
  have HFL : Hid ((L.take L.length).flatten = L.flatten) := Lib.hid (by rw [List.take_length])
  have HN := Lib.hid hsum
  clear hp hsum
  generalize L.flatten = R at *
  go_enter Try.func39, Try.ntmps39
  go_wp2_with fail
  go_loopw [3, 4] (fun r i wr => ∃ j : Nat, j ≤ L.length ∧ i = .int .i64 j ∧ OwnB wr w.heap.size r (L.take j).flatten ∧ Below w.heap.size w wr) (fun _ i _ => L.length - (intOf i).toNat)
  case atStart => exact ⟨0, by omega, rfl, OwnB.of_nil none, Below.refl _ _⟩
  case round =>
    obtain ⟨j, hj, rfl, ho, hbw⟩ := hrel
    have HO := Lib.hid ho
    have HB := Lib.hid hbw
    have hsz := hbw.size
    clear ho hbw
    by_cases hlt : j < L.length
    · have HFS := Lib.hid (flat_snoc L j hlt)
      have hfl := HLE.out (j + 1)
      rw [flat_snoc L j hlt] at hfl
      obtain ⟨b, o, A, n, c, rfl, hb, hcell, hsrc, hnc, hcm⟩ := HP.out.at_ j hlt
      have hpl : (L.getD j []).length = n := src_len hsrc
      have hji : (j : Int) < (L.length : Int) := by omega
      have hcw : wr.cell? ⟨b, o + j, none⟩ = some (.slice A n c) := (HB.out.cell (p := ⟨b, o + j, none⟩) (hS b hb)).trans hcell
      have HSR : Hid (Src wr S A n (bcs (L.getD j []))) := Lib.hid (hsrc.below' HB.out hS)
      clear hsrc hcell
      generalize L.getD j [] = p at *
      generalize (L.take j).flatten = D at *
      have hdl : D.length + n ≤ 1000000000 := by rw [List.length_append, hpl] at hfl; have := HN.out; omega
      clear hfl
      have HPL := Lib.hid hpl
      clear hpl
      go_wp2_with (at_builtin; refine wpList_appB ?g1 _ _ rfl w.heap.size _ _ rfl HO.out _ _ _ _ p rfl HSR.out (by omega) hsz ?_; exact rfl; intro v' w3 ho3 hb3)
      have HO3 := Lib.hid ho3
      have HB3 : Hid (Below w.heap.size w w3) := Lib.hid (HB.out.trans hb3)
      clear ho3 hb3
      go_wp2
      go_roundw
      case rel =>
        first | exact ⟨j + 1, by omega, by go_num, by rw [HFS.out]; exact HO3.out, HB3.out⟩ | ((repeat apply Exists.intro); exact ⟨⟨j + 1, by omega, by go_num, by rw [HFS.out]; exact HO3.out, HB3.out⟩, rfl⟩)
      case measure => simp [intOf]; omega
    · obtain rfl : j = L.length := by omega
      rw [HFL.out] at HO
      clear hlt hj
      go_wp2
      go_ret
      exact ⟨_, rfl, HO.out, HB.out⟩
end Go.Proofs.Ytphalfpmgbmcaaa
