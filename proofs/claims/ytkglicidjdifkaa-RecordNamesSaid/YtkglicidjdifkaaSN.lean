/- Both sums. No statement is proved here. -/
import Derived.Test.YtkglicidjdifkaaSZ

namespace Go.Proofs.Ytkglicidjdifkaa
open Go.RowKit
set_option linter.unusedVariables false

theorem Parts.below {w w' : World} {S : Nat → Prop} {P : Option Addr} {L : List (List UInt8)} {B : Nat} (h : Parts w S P L) (hb : Below B w w') (hS : ∀ b, S b → b < B) : Parts w' S P L :=
  ⟨fun i hi => by
    obtain ⟨b, o, A, n, c, e, hsb, hc, hsr, h1, h2⟩ := h.at_ i hi
    exact ⟨b, o, A, n, c, e, hsb, (hb.cell (p := ⟨b, o + i, none⟩) (hS b hsb)).trans hc, hsr.below' hb hS, h1, h2⟩⟩
theorem start512_fits : start512.Fits := ⟨by decide, by decide, by decide, by decide, by decide, by decide, by decide, by decide⟩
theorem start256_fits : start256.Fits := ⟨by decide, by decide, by decide, by decide, by decide, by decide, by decide, by decide⟩
theorem words_lt {s : St} (h : s.Fits) : ∀ x ∈ s.words, x < 18446744073709551616 := by
  intro x hx
  simp only [St.words, List.mem_cons, List.not_mem_nil, or_false] at hx
  rcases hx with rfl | rfl | rfl | rfl | rfl | rfl | rfl | rfl
  · exact h.a
  · exact h.b
  · exact h.c
  · exact h.d
  · exact h.e
  · exact h.f
  · exact h.g
  · exact h.h
theorem sumS_fits (s : St) (l : List UInt8) (hs : s.Fits) : (sumS s l).Fits := whole_fits s _ hs
/-- The sum of SHA-512, and of SHA-512/256. -/
def sum512 (l : List UInt8) : List UInt8 := oct (sumS start512 l).words
def sum256 (l : List UInt8) : List UInt8 := (oct (sumS start256 l).words).take 32
theorem oct_len (l : List Nat) : (oct l).length = 64 := octN_len l 64
theorem sum512_len (l : List UInt8) : (sum512 l).length = 64 := oct_len _
theorem sum256_len (l : List UInt8) : (sum256 l).length = 32 := by simp [sum256, oct_len]

theorem under23 : Try.prog.underlying 23 = some (.array 32 5) := by kernel_rfl
theorem size23 : (Try.prog.info? 23).map (·.size) = some 32 := by kernel_rfl
theorem zero23 (w : World) : (zeroValue 23).run Try.prog w = .ok (.agg (zbs 32)) w := by kernel_rfl
theorem run_arr23 (A : Option Addr) (n c : Nat) (h : 32 ≤ n) (w : World) : (Instr.arrayAt 23 (.slice A n c)).run Try.prog w = .ok (.pointer A) w := by
  have hn : ¬ n < 32 := by omega
  simp [Instr.arrayAt, run_underlying under23, hn]
section
variable (L : List (List UInt8)) (w : World) (S : Nat → Prop) (P : Option Addr) (pc : Nat) (hp : Parts w S P L) (hS : ∀ b, S b → b < w.heap.size) (hsum : L.flatten.length ≤ 1000000000) (hm : L.length ≤ 1000000000)
include hp hS hsum hm
set_option maxHeartbeats 1000000 in
theorem sum256_any : Calls Try.prog 21 #[.slice P L.length pc] w (Gives (.agg (bcs (sum256 L.flatten)).toArray) w) := by
  have HP := Lib.hid hp
  clear hp
  have HLS : Hid (sum256 L.flatten = (oct (sumS start256 L.flatten).words).take 32) := rfl
  have HRL := Lib.hid (sum256_len L.flatten)
  have HOL := Lib.hid (oct_len (sumS start256 L.flatten).words)
  have CO := Lib.hid (octets_any _ rfl (words_lt (sumS_fits start256 L.flatten start256_fits)))
  generalize sum256 L.flatten = R at *
  go_enter Try.func21, Try.ntmps21
  go_wp2_with (first | (with_reducible refine wpList_alloc_row rfl 23 rfl (.agg (zbs 32)) zero23 ?_; intro w1 hh1 hz1 hg1; have H1 := Lib.hid hh1; have G1 := Lib.hid hg1; clear hh1 hg1))
  refine (startShort_any _).mono ?_
  rintro e2 w2 ⟨rfl, hb2⟩
  have B2 := Lib.hid hb2
  have z2 := hb2.size
  clear hb2
  go_wp2_with fail
  refine (sum_any start256 start256_fits L w2 S P pc ((HP.out.below (below_of_grownBy G1.out) hS).below B2.out (fun b hb => by have := hS b hb; omega)) (fun b hb => by have := hS b hb; omega) hsum hm).mono ?_
  rintro e3 w3 ⟨rfl, hb3⟩
  have B3 := Lib.hid hb3
  have z3 := hb3.size
  clear hb3
  go_wp2_with fail
  refine (CO.out w3).mono ?_
  clear CO
  generalize oct (sumS start256 L.flatten).words = F at *
  rintro e4 w4 ⟨rfl, hb4⟩
  have B4 := Lib.hid hb4
  have z4 := hb4.size
  clear hb4
  have H4 : Hid (w4.heap[w.heap.size]? = some (.cells (zbs 32) 23 (0, 0)) ∧ Below w.heap.size w w4) := ⟨(B4.out.block _ (by omega)).trans ((B3.out.block _ (by omega)).trans ((B2.out.block _ (by omega)).trans H1.out)), (((below_of_grownBy G1.out).trans (B2.out.mono (by omega))).trans (B3.out.mono (by omega))).trans (B4.out.mono (by omega))⟩
  clear B2 B3 B4 H1 G1
  have HF2 := Lib.hid (show (Try.prog.info? 62).map (·.size) = some (bcs F).toArray.size from by rw [size62]; simp [bcs_len, HOL.out])
  have HF3 := Lib.hid (show (bcs F).toArray.size = (zbs 64).size from by simp [bcs_len, HOL.out, zbs])
  have HR2 := Lib.hid (show (Try.prog.info? 23).map (·.size) = some (bcs R).toArray.size from by rw [size23]; simp [bcs_len, HRL.out])
  have HR3 := Lib.hid (show (bcs R).toArray.size = (zbs 32).size from by simp [bcs_len, HRL.out, zbs])
  have HR4 := Lib.hid (show (Try.prog.info? 23).map (·.size) = some (bcs R).length from by rw [size23]; simp [bcs_len, HRL.out])
  have hlt4 : w.heap.size < w4.heap.size := (Array.getElem?_eq_some_iff.1 H4.out.1).1
  have harr := fun W => run_arr23 (some ⟨w4.heap.size, 0, none⟩) 32 64 (by omega) W
  have HCC : Hid (∀ w6 : World, w6.heap[w4.heap.size]? = some (.cells (bcs F).toArray 62 (0, 0)) → ∀ i u, (bcs R)[i]? = some u → w6.cell? ⟨w4.heap.size, 0 + i, none⟩ = some u) := fun w6 h6 i u hu => by
    rw [Nat.zero_add]
    refine row_cells h6 i u ?_
    rw [HLS.out, bcs_takeD, List.getElem?_take] at hu
    split at hu
    · simpa using hu
    · cases hu
  have HFF : Hid (∀ w5 w6 : World, w4.grownBy w5 none → w5.heap.size = w4.heap.size + 1 → w5.grownBy w6 (some w4.heap.size) → w6.heap[w.heap.size]? = some (.cells (zbs 32) 23 (0, 0)) ∧ Below w.heap.size w w6) := fun w5 w6 g5 z5 g6 =>
    ⟨(g6.block _ (by omega) (by simp; omega)).trans ((g5.block _ hlt4 (by simp)).trans H4.out.1), (H4.out.2.grown g5 (by omega) (by simp)).grown g6 (by omega) (fun r hr => by injection hr; omega)⟩
  clear H4 HLS
  go_wp2_with (first | (with_reducible refine wpList_alloc_row rfl 62 rfl (.agg (zbs 64)) zero62 ?_; intro w5 hh5 hz5 hg5; have H5 := Lib.hid hh5; have G5 := Lib.hid hg5; have Z5 := Lib.hid hz5; clear hh5 hg5 hz5) | ((with_reducible show wpList _ _ _ (⟨none, .store 62 (.tmp 3) (.tmp 7), _, _, _, _⟩ :: _) _ _); refine wpList_store_all rfl 62 (.tmp 3) (.tmp 7) rfl w4.heap.size rfl (bcs F).toArray rfl 62 (zbs 64) H5.out HF2.out HF3.out (bcs_one _) ?_; intro w6 hh6 hg6 hz6; have HC := Lib.hid (HCC.out w6 hh6); have H7 := Lib.hid (HFF.out w5 w6 G5.out Z5.out hg6); clear hh6 hg6 hz6 H5 G5 Z5 HCC HFF) | ((with_reducible show wpList _ _ _ (⟨_, .load 23 (.tmp 9), _, _, _, _⟩ :: _) _ _); refine wpList_load_arr rfl 23 (.tmp 9) rfl w4.heap.size 0 rfl (bcs R) HC.out _ under23 rfl HR4.out ?_) | ((with_reducible show wpList _ _ _ (⟨none, .store 23 (.tmp 2) (.tmp 10), _, _, _, _⟩ :: _) _ _); refine wpList_store_all rfl 23 (.tmp 2) (.tmp 10) rfl w.heap.size rfl (bcs R).toArray rfl 23 (zbs 32) H7.out.1 HR2.out HR3.out (bcs_one _) ?_; intro w8 hh8 hg8 hz8))
  have H8 := Lib.hid hh8
  have G8 := Lib.hid hg8
  clear hh8 hg8
  go_wp2
  refine bodyPost_ret (results_cell_row rfl _ _ w.heap.size 23 (bcs R).toArray _ _ rfl H8.out under23 rfl HR2.out) rfl ?_
  exact ⟨rfl, H7.out.2.grown G8.out H7.out.2.size (fun r hr => by injection hr; omega)⟩
end
end Go.Proofs.Ytkglicidjdifkaa
