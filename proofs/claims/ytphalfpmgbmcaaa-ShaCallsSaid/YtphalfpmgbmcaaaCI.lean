/- The reference's sums. No statement is proved here. -/
import Derived.Test.YtphalfpmgbmcaaaCH
namespace Go.Proofs.Ytphalfpmgbmcaaa
open Go.RowKit
set_option linter.unusedVariables false
set_option linter.unusedSimpArgs false

theorem sz22' (l : List UInt8) (h : l.length = 64) : (Try.prog.info? 22).map (·.size) = some (bcs l).toArray.size := by rw [size22]; simp [bcs_len, h]
theorem fit22' (l : List UInt8) (h : l.length = 64) : (bcs l).toArray.size = (zbs 64).size := by simp [bcs_len, h, zbs]
set_option maxRecDepth 100000 in
set_option maxHeartbeats 1000000 in
theorem rsum512_any (L : List (List UInt8)) (w : World) (S : Nat → Prop) (P : Option Addr) (pc : Nat) (hp : Parts w S P L) (hS : ∀ b, S b → b < w.heap.size) (hsum : L.flatten.length ≤ 1000000000) (hm : L.length ≤ 1000000000) :
    Calls Try.prog 17 #[.slice P L.length pc] w (Gives (.agg (bcs (sum512 L.flatten)).toArray) w) := by
  have HP := Lib.hid hp
  clear hp
  have HLS : Hid (sum512 L.flatten = oct (sumS start512 L.flatten).words) := rfl
  have HRL := Lib.hid (sum512_len L.flatten)
  have CB := Lib.hid (rbytes_any _ rfl (words_lt (sumS_fits start512 L.flatten start512_fits)))
  rw [← HLS.out] at CB
  have CR := Lib.hid (fun W S A n c h1 h2 h3 => rrun_any start512 start512_fits L.flatten W S A n c h1 h2 h3)
  have CJ := Lib.hid (fun W S c h1 h2 => rjoin_any L W S P c h1 h2 hsum hm)
  generalize sum512 L.flatten = R at *
  generalize sumS start512 L.flatten = Z at *
  generalize L.flatten = F at *
  clear HLS
  go_enter Try.func17, Try.ntmps17
  go_wp2_with (first | (with_reducible refine wpList_alloc_row rfl 22 rfl (.agg (zbs 64)) zero22 ?_; intro w1 hh1 hz1 hg1; have H1 := Lib.hid hh1; have G1 := Lib.hid hg1; clear hh1 hg1))
  refine (rstart_any _).mono ?_
  rintro e2 w2 ⟨rfl, hb2⟩
  have B2 := Lib.hid hb2
  have z2 := hb2.size
  clear hb2
  go_wp2_with fail
  refine (CJ.out w2 S pc ((HP.out.below (below_of_grownBy G1.out) hS).below B2.out (fun b hb => by have := hS b hb; omega)) (fun b hb => by have := hS b hb; omega)).mono ?_
  rintro e3 w3 ⟨v3, rfl, ho3, hb3⟩
  obtain ⟨A3, c3, rfl, _, _, hs3⟩ := ho3.src
  have S3 := Lib.hid hs3
  have B3 := Lib.hid hb3
  have z3 := hb3.size
  clear hb3 ho3 hs3
  go_wp2_with fail
  refine (CR.out w3 _ A3 F.length c3 S3.out (fun b hb => hb.2) hsum).mono ?_
  rintro e4 w4 ⟨rfl, hb4⟩
  have B4 := Lib.hid hb4
  have z4 := hb4.size
  clear hb4 S3
  go_wp2_with fail
  refine (CB.out w4).mono ?_
  rintro e5 w5 ⟨rfl, hb5⟩
  have H5 : Hid (w5.heap[w.heap.size]? = some (.cells (zbs 64) 22 (0, 0)) ∧ Below w.heap.size w w5) := Lib.hid ⟨(hb5.block _ (by omega)).trans ((B4.out.block _ (by omega)).trans ((B3.out.block _ (by omega)).trans ((B2.out.block _ (by omega)).trans H1.out))), ((((below_of_grownBy G1.out).trans (B2.out.mono (by omega))).trans (B3.out.mono (by omega))).trans (B4.out.mono (by omega))).trans (hb5.mono (by omega))⟩
  clear hb5 B2 B3 B4 H1 G1
  go_wp2_with ((with_reducible show wpList _ _ _ (⟨none, .store 22 (.tmp 2) (.tmp 7), _, _, _, _⟩ :: _) _ _); go_must (refine wpList_store_all rfl 22 (.tmp 2) (.tmp 7) rfl w.heap.size rfl (bcs R).toArray rfl 22 (zbs 64) H5.out.1 (sz22' _ HRL.out) (fit22' _ HRL.out) (bcs_one _) ?_; intro w6 hh6 hg6 hz6))
  have H6 := Lib.hid hh6
  have G6 := Lib.hid hg6
  clear hh6 hg6
  go_wp2
  refine bodyPost_ret (results_cell_row rfl _ _ w.heap.size 22 (bcs R).toArray _ _ rfl H6.out under22 rfl (sz22' _ HRL.out)) rfl ?_
  exact ⟨rfl, H5.out.2.grown G6.out H5.out.2.size (fun r hr => by injection hr; omega)⟩

def startX : St := ⟨14964410163792538797, 2216346199247487646, 11082046791023156622, 65953792586715988, 17630457682085488500, 4512832404995164602, 13413544941332994254, 18322165818757711068⟩
def shortName : List UInt8 := [83, 72, 65, 45, 53, 49, 50, 47, 50, 53, 54]
theorem startX_fits : startX.Fits := ⟨by decide, by decide, by decide, by decide, by decide, by decide, by decide, by decide⟩
theorem short_pad : (padded shortName).length = 128 := by decide +kernel
theorem short_w16 : sched0 (padded shortName) 16 = [6001118165892936239, 3617857799045775360, 0, 0, 0, 0, 0, 0, 0, 0, 0, 0, 0, 0, 0, 88] := by decide +kernel
theorem short_go : (fpiece startX [6001118165892936239, 3617857799045775360, 0, 0, 0, 0, 0, 0, 0, 0, 0, 0, 0, 0, 0, 88]).words = start256.words := by decide +kernel
theorem short_sum : (sumS startX shortName).words = start256.words := by rw [sumS_one _ _ short_pad, short_w16, short_go]
theorem startX_get (j : Nat) (hj : j < 8) : startX.words.getD j 0 = start512.words.getD j 0 ^^^ 11936128518282651045 := by
  match j, hj with
  | 0, _ => decide +kernel
  | 1, _ => decide +kernel
  | 2, _ => decide +kernel
  | 3, _ => decide +kernel
  | 4, _ => decide +kernel
  | 5, _ => decide +kernel
  | 6, _ => decide +kernel
  | 7, _ => decide +kernel
theorem start512_get_lt (j : Nat) : start512.words.getD j 0 < 18446744073709551616 := getD_lt (words_lt start512_fits) j
theorem xor_lit (x : Nat) (hx : x < 18446744073709551616) : bits .xor .u64 (x : Int) 11936128518282651045 = ((x ^^^ 11936128518282651045 : Nat) : Int) := u64_xor_nat x 11936128518282651045 hx (by omega)
end Go.Proofs.Ytphalfpmgbmcaaa
