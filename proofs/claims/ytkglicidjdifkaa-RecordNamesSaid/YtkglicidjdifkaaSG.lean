/- The bytes of words; padding. No statement is proved here. -/
import Derived.Test.YtkglicidjdifkaaSF

namespace Go.Proofs.Ytkglicidjdifkaa
open Go.RowKit
set_option linter.unusedVariables false

theorem under62 : Try.prog.underlying 62 = some (.array 64 5) := by kernel_rfl
theorem size62 : (Try.prog.info? 62).map (·.size) = some 64 := by kernel_rfl
theorem zero62 (w : World) : (zeroValue 62).run Try.prog w = .ok (.agg (zbs 64)) w := by kernel_rfl
/-- A row of n bytes, of which the first are known, the others zero. -/
def partb (l : List UInt8) (n : Nat) : Array Value := (bcs (l ++ List.replicate (n - l.length) 0)).toArray
theorem partb_size (l : List UInt8) (n : Nat) (h : l.length ≤ n) : (partb l n).size = n := by simp [partb, bcs_len]; omega
theorem partb_nil (n : Nat) : partb [] n = zbs n := by simp [partb, zbs]
theorem partb_snoc (l : List UInt8) (n : Nat) (x : UInt8) (h : l.length < n) : (partb l n).setIfInBounds l.length (.int .u8 (x.toNat : Int)) = partb (l ++ [x]) n := by
  have h1 : n - l.length = (n - (l ++ [x]).length) + 1 := by simp; omega
  unfold partb
  rw [h1, List.replicate_succ, bcs_append, bcs_append, bcs_append]
  apply Array.toList_inj.1
  rw [Array.toList_setIfInBounds]
  simp [bcs, bc]
theorem partb_full (l : List UInt8) (n : Nat) (h : l.length = n) : partb l n = (bcs l).toArray := by simp [partb, h]

/-- One byte of words. -/
def octb (l : List Nat) (i : Nat) : UInt8 := UInt8.ofNat (l.getD (i / 8) 0 / 2 ^ (56 - 8 * (i % 8)))
def octN (l : List Nat) (n : Nat) : List UInt8 := (List.range n).map (octb l)
/-- The bytes of eight words. -/
def oct (l : List Nat) : List UInt8 := octN l 64
theorem octN_len (l : List Nat) (n : Nat) : (octN l n).length = n := by simp [octN]
theorem octN_succ (l : List Nat) (n : Nat) : octN l (n + 1) = octN l n ++ [octb l n] := by simp [octN, List.range_succ]

/-- The memory of octets. -/
structure Oc (B : Nat) (w0 : World) (l : List Nat) (o : List UInt8) (w : World) : Prop where
  b0 : w.heap[B]? = some (.cells (ucs l).toArray 64 (0, 0))
  b1 : w.heap[B + 1]? = some (.cells (zbs 64) 62 (0, 0))
  b2 : w.heap[B + 2]? = some (.cells (partb o 64) 62 (0, 0))
  lt : B + 3 ≤ w.heap.size
  bel : Below B w0 w

theorem Oc.snoc {B : Nat} {w0 : World} {l : List Nat} {o : List UInt8} {wr w' : World} (h : Oc B w0 l o wr) (x : UInt8) (hx : o.length < 64) (hb : wr.grownBy w' (some (B + 2))) (h3 : w'.heap[B + 2]? = some (.cells ((partb o 64).setIfInBounds o.length (.int .u8 (x.toNat : Int))) 62 (0, 0))) : Oc B w0 l (o ++ [x]) w' := by
  have := h.lt
  refine ⟨(hb.block _ (by omega) (by simp)).trans h.b0, (hb.block _ (by omega) (by simp)).trans h.b1, by rw [h3, partb_snoc o 64 x hx], Nat.le_trans h.lt hb.size, h.bel.grown hb (by omega) (fun r hr => by injection hr; omega)⟩
set_option maxRecDepth 100000 in
set_option maxHeartbeats 1000000 in
theorem octets_any (l : List Nat) (hl : l.length = 8) (hb : ∀ x ∈ l, x < 18446744073709551616) (w : World) :
    Calls Try.prog 28 #[.agg (ucs l).toArray] w (Gives (.agg (bcs (oct l)).toArray) w) := by
  have HL := Lib.hid hl
  have HG : Hid (∀ i, U64 (l.getD i 0)) := fun i => getD_lt hb i
  clear hl hb
  have M1 : Hid True := trivial
  go_enter Try.func28, Try.ntmps28
  go_wp2_with (first | (clear M1; with_reducible refine wpList_alloc_row rfl 62 rfl (.agg (zbs 64)) zero62 ?_; intro w0 hh0 hz0 hg0; have HZ0 := Lib.hid hz0) | (with_reducible refine wpList_alloc_row rfl 62 rfl (.agg (zbs 64)) zero62 ?_; intro w1 hh1 hz1 hg1; have HZ := Lib.hid hz1))
  have HOc : Hid (Oc w.heap.size w l [] w1) := by
    have z0 := HZ0.out
    have z1 := HZ.out
    simp only [World.size_alloc] at z0 hh0
    rw [z0] at z1 hh1
    refine ⟨?_, ?_, ?_, by omega, ?_⟩
    · exact (hg1.block _ (by omega) (by simp)).trans ((hg0.block _ (by simp) (by simp)).trans (heap_alloc_new w _))
    · exact (hg1.block _ (by omega) (by simp)).trans hh0
    · rw [partb_nil]; exact hh1
    · exact (((Below.refl _ _).alloc (Nat.le_refl _) _).grown hg0 (by simp) (by simp)).grown hg1 (by omega) (by simp)
  clear hh0 hg0 HZ0 hh1 hg1 HZ
  go_loopw [4, 5] (fun _ i wr => ∃ j : Nat, j ≤ 64 ∧ i = .int .i64 j ∧ Oc w.heap.size w l (octN l j) wr) (fun _ i _ => 64 - (intOf i).toNat)
  case atStart => exact ⟨0, by omega, rfl, HOc.out⟩
  case round =>
    obtain ⟨j, hj, rfl, hsc⟩ := hrel
    have H := Lib.hid hsc
    clear hsc HOc
    by_cases hlt : j < 64
    · have hlt8 : j / 8 < 8 := by omega
      have hc : wr.cell? ⟨w.heap.size, j / 8, none⟩ = some (.int .u64 (l.getD (j / 8) 0 : Nat)) := by
        refine row_cells H.out.b0 _ _ ?_
        rw [List.toList_toArray, ucs_get, List.getD_eq_getElem?_getD, List.getElem?_eq_getElem (by rw [HL.out]; exact hlt8)]
        rfl
      have HO : Hid (octb l j = UInt8.ofNat (l.getD (j / 8) 0 / 2 ^ (56 - 8 * (j % 8)))) := rfl
      have HB := Lib.hid (HG.out (j / 8))
      clear HG
      generalize l.getD (j / 8) 0 = x at *
      have HV : Hid (((x : Int) / 2 ^ (56 - 8 * (j % 8)) % 256) = ((octb l j).toNat : Int)) := byte_of _ _ _ HO.out
      go_wp2_with ((with_reducible show wpList _ _ _ (⟨none, .store 5 (.tmp 19) (.tmp 18), _, _, _, _⟩ :: _) _ _); refine wpList_store_one rfl 5 (.tmp 19) (.tmp 18) rfl (w.heap.size + 2) j rfl .u8 _ rfl 62 _ H.out.b2 size5 (by rw [partb_size _ _ (by rw [octN_len]; omega)]; omega) ?_; intro w3 hh3 hg3 hz3; rw [HV.out] at hh3; have HO3 : Hid (Oc w.heap.size w l (octN l (j + 1)) w3) := (by rw [octN_succ]; exact H.out.snoc _ (by rw [octN_len]; omega) hg3 (by rw [octN_len]; exact hh3)); clear hh3 hg3 hz3)
      go_roundw
      case rel => exact ⟨j + 1, by omega, by go_num, HO3.out⟩
      case measure => simp [intOf]; omega
    · obtain rfl : j = 64 := by omega
      clear hlt hj
      have hoc : octN l 64 = oct l := rfl
      rw [hoc] at H
      clear hoc
      have HR : Hid ((oct l).length = 64) := octN_len l 64
      generalize oct l = R at *
      have HF : Hid (wr.heap[w.heap.size + 2]? = some (.cells (bcs R).toArray 62 (0, 0))) := by
        have := H.out.b2
        rw [partb_full R 64 HR.out] at this
        exact this
      have HC : Hid (∀ i u, (bcs R)[i]? = some u → wr.cell? ⟨w.heap.size + 2, 0 + i, none⟩ = some u) := fun i u hu => by
        rw [Nat.zero_add]
        exact row_cells HF.out i u (by simpa using hu)
      have HSz : Hid ((Try.prog.info? 62).map (·.size) = some (bcs R).length) := by rw [size62, bcs_len, HR.out]; exact rfl
      have HSa : Hid ((Try.prog.info? 62).map (·.size) = some (bcs R).toArray.size) := by rw [HSz.out]; exact rfl
      have HZ := Lib.hid (show (bcs R).toArray.size = (zbs 64).size from by simp [bcs_len, HR.out, zbs])
      have HB2 := Lib.hid H.out.b1
      have HLT := H.out.lt
      have HBL := Lib.hid H.out.bel
      clear HG HF H
      go_wp2_with (first | ((with_reducible show wpList _ _ _ (⟨_, .load 62 (.tmp 3), _, _, _, _⟩ :: _) _ _); refine wpList_load_arr rfl 62 (.tmp 3) rfl (w.heap.size + 2) 0 rfl (bcs R) HC.out _ under62 rfl HSz.out ?_) | ((with_reducible show wpList _ _ _ (⟨none, .store 62 (.tmp 2) (.tmp 21), _, _, _, _⟩ :: _) _ _); refine wpList_store_all rfl 62 (.tmp 2) (.tmp 21) rfl (w.heap.size + 1) rfl (bcs R).toArray rfl 62 (zbs 64) HB2.out HSa.out HZ.out (bcs_one _) ?_; intro w3 hh3 hg3 hz3))
      have H3 := Lib.hid hh3
      have G3 := Lib.hid hg3
      clear hh3 hg3
      go_wp2
      refine bodyPost_ret (results_cell_row rfl _ _ (w.heap.size + 1) 62 (bcs R).toArray _ _ rfl H3.out under62 rfl HSa.out) rfl ?_
      exact ⟨rfl, HBL.out.grown G3.out (by omega) (fun r hr => by injection hr; omega)⟩
end Go.Proofs.Ytkglicidjdifkaa
