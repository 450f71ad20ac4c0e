/- The field's ones. No statement is proved here. -/
import Derived.Test.YtgdimnbdnepbgaaFV
namespace Go.Proofs.Ytgdimnbdnepbgaa
open Go.RowKit
set_option linter.unusedVariables false
set_option maxRecDepth 40000

/-- The first n bytes set. -/
def fl : Nat → List UInt8
  | 0 => List.replicate 32 0
  | n + 1 => (fl n).set n 255
theorem fl_len (n : Nat) : (fl n).length = 32 := by
  induction n with
  | zero => rfl
  | succ n ih => unfold fl; rw [List.length_set]; exact ih
/-- The memory of ones. -/
structure Po (w : World) (l : List UInt8) (w' : World) : Prop where
  row : w'.heap[w.heap.size + 1]? = some (.cells (bcs l).toArray 23 (0, 0))
  res : w'.heap[w.heap.size]? = some (.cells (zbs 32) 23 (0, 0))
  bel : Below w.heap.size w w'
theorem Po.set {w : World} {l : List UInt8} {w' w'' : World} (h : Po w l w') (hg : w'.grownBy w'' (some (w.heap.size + 1))) (l' : List UInt8) (hh : w''.heap[w.heap.size + 1]? = some (.cells (bcs l').toArray 23 (0, 0))) : Po w l' w'' :=
  ⟨hh, (hg.block _ (Array.getElem?_eq_some_iff.1 h.res).1 (by simp)).trans h.res, h.bel.grown hg h.bel.size (fun r hr => by injection hr; omega)⟩

set_option maxHeartbeats 1000000 in
theorem ones_core (f l : UInt8) (n : Nat) (w : World) (HN : Hid (((fl 32).set 0 f).set 31 l = enc n)) : Calls Try.prog 61 #[.int .u8 (f.toNat : Int), .int .u8 (l.toNat : Int)] w (Gives (vN n) w) := by
  go_enter Try.func61, Try.ntmps61
  go_wp2_with (first | ((with_reducible show wpList _ _ _ (⟨some 4, .alloc 23, _, _, _, _⟩ :: _) _ _); go_must (refine wpList_alloc_row rfl 23 rfl (.agg (zbs 32)) zero23 ?_; intro w1 h1 z1 g1; have H1 := Lib.hid h1; have Z1 := Lib.hid z1; have G1 := Lib.hid g1; clear h1 z1 g1)) | ((with_reducible show wpList _ _ _ (⟨some 5, .alloc 23, _, _, _, _⟩ :: _) _ _); go_must (refine wpList_alloc_row rfl 23 rfl (.agg (zbs 32)) zero23 ?_; intro w2 h1 z1 g1; have H2 := Lib.hid h1; have Z2 := Lib.hid z1; have G2 := Lib.hid g1; clear h1 z1 g1)))
  have S : Hid (Po w (fl 0) w2) := by
    refine ⟨?_, ?_, (below_of_grownBy G1.out).trans ((below_of_grownBy G2.out).mono (by have := Z1.out; omega))⟩
    · have h := H2.out
      rw [Z1.out] at h
      exact h
    · exact ((below_of_grownBy G2.out).block _ (by have := Z1.out; omega)).trans H1.out
  rw [show w1.heap.size = w.heap.size + 1 from Z1.out]
  clear H1 Z1 G1 H2 Z2 G2
  go_loopw [6, 7] (fun _ i wr => ∃ n : Nat, n ≤ 32 ∧ i = .int .i64 n ∧ Po w (fl n) wr) (fun _ i _ => 32 - (intOf i).toNat)
  case atStart => exact ⟨0, by omega, rfl, S.out⟩
  case round =>
    obtain ⟨k, hk, rfl, hp⟩ := hrel
    have H := Lib.hid hp
    clear hp S
    by_cases hlt : k < 32
    · have hki : (k : Int) < 32 := by omega
      have HL : Hid ((fl k).length = 32) := fl_len k
      have HE : Hid (fl (k + 1) = (fl k).set k 255) := rfl
      go_wp2_with ((with_reducible show wpList _ _ _ (⟨none, .store 5 (.tmp 11) _, _, _, _, _⟩ :: _) _ _); go_must (refine wpList_store_one rfl 5 (.tmp 11) _ rfl (w.heap.size + 1) k rfl .u8 255 rfl 23 _ H.out.row size5 (by simp only [List.size_toArray, bcs_len]; have := HL.out; omega) ?_; intro y0 hh hg hz; rw [show (255 : Int) = ((255 : UInt8).toNat : Int) from rfl, bcs_set, ← HE.out] at hh; have H2 := Lib.hid (H.out.set hg _ hh); clear hh hg hz H))
      exact ⟨⟨k + 1, by omega, by go_num, H2.out⟩, by simp [intOf]; omega⟩
    · obtain rfl : k = 32 := by omega
      have HL : Hid ((fl 32).length = 32) := fl_len 32
      obtain ⟨M, hM⟩ : ∃ M, M = fl 32 := ⟨_, rfl⟩
      rw [← hM] at H HL HN
      clear hM
      have HL2 : Hid ((M.set 0 f).length = 32) := by rw [List.length_set]; exact HL.out
      go_wp2_with (first | ((with_reducible show wpList _ _ _ (⟨none, .store 5 (.tmp 15) _, _, _, _, _⟩ :: _) _ _); go_must (refine wpList_store_one rfl 5 (.tmp 15) (.tmp 13) rfl (w.heap.size + 1) 0 rfl .u8 _ rfl 23 _ H.out.row size5 (by simp only [List.size_toArray, bcs_len]; have := HL.out; omega) ?_; intro y0 hh hg hz; rw [bcs_set] at hh; have H2 := Lib.hid (H.out.set hg _ hh); clear hh hg hz H)) | ((with_reducible show wpList _ _ _ (⟨none, .store 5 (.tmp 16) _, _, _, _, _⟩ :: _) _ _); go_must (refine wpList_store_one rfl 5 (.tmp 16) (.tmp 14) rfl (w.heap.size + 1) 31 rfl .u8 _ rfl 23 _ H2.out.row size5 (by simp only [List.size_toArray, bcs_len]; have := HL2.out; omega) ?_; intro y1 hh hg hz; rw [bcs_set, HN.out] at hh; have H3 := Lib.hid (H2.out.set hg _ hh); clear hh hg hz H2)) | ((with_reducible show wpList _ _ _ (⟨_, .load 23 (.tmp 5), _, _, _, _⟩ :: _) _ _); go_must (refine wpList_exec rfl (vN n) (exec_load23 (.tmp 5) rfl (w.heap.size + 1) n rfl ⟨23, H3.out.row⟩) ?_)) | ((with_reducible show wpList _ _ _ (⟨none, .store 23 (.tmp 4) (.tmp 17), _, _, _, _⟩ :: _) _ _); go_must (refine wpList_store_all rfl 23 (.tmp 4) (.tmp 17) rfl (w.heap.size) rfl (bcs (enc n)).toArray rfl 23 _ H3.out.res (by rw [List.size_toArray, bcs_enc_len]; exact size23) (by rw [List.size_toArray, bcs_enc_len]; rfl) (bcs_one _) ?_; intro x5 hh hg hz; have HH := Lib.hid hh; have HG := Lib.hid hg; clear hh hg hz)))
      refine bodyPost_ret (results_cell_row rfl _ _ (w.heap.size) 23 (bcs (enc n)).toArray _ _ rfl HH.out under23 rfl (by rw [List.size_toArray, bcs_enc_len]; exact size23)) rfl ?_
      exact ⟨rfl, H3.out.bel.grown HG.out H3.out.bel.size (fun r hr => by injection hr; omega)⟩
/-- p - 2. -/
theorem ones_inv (w : World) : Calls Try.prog 61 #[.int .u8 235, .int .u8 127] w (Gives (vN (PP - 2)) w) := ones_core 235 127 _ w (Lib.hid (show ((fl 32).set 0 235).set 31 127 = enc (PP - 2) by kernel_rfl))
/-- (p + 3) / 8. -/
theorem ones_root (w : World) : Calls Try.prog 61 #[.int .u8 254, .int .u8 15] w (Gives (vN 7237005577332262213973186563042994240829374041602535252466099000494570602494) w) := ones_core 254 15 _ w (Lib.hid (show ((fl 32).set 0 254).set 31 15 = enc 7237005577332262213973186563042994240829374041602535252466099000494570602494 by kernel_rfl))
/-- (p - 1) / 4. -/
theorem ones_quarter (w : World) : Calls Try.prog 61 #[.int .u8 251, .int .u8 31] w (Gives (vN 14474011154664524427946373126085988481658748083205070504932198000989141204987) w) := ones_core 251 31 _ w (Lib.hid (show ((fl 32).set 0 251).set 31 31 = enc 14474011154664524427946373126085988481658748083205070504932198000989141204987 by kernel_rfl))
end Go.Proofs.Ytgdimnbdnepbgaa
