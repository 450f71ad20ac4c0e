/- Reading words and digests. No statement is proved here. -/
import Derived.Test.YtbcalhhfcnbppaaF
import Derived.Test.YtbcalhhfcnbppaaR
namespace Go.Proofs.Ytbcalhhfcnbppaa
open Go.RowKit

/-- Bytes as a number, the lowest first. -/
def lev : List UInt8 → Nat
  | [] => 0
  | c :: t => c.toNat + 256 * lev t
theorem lev_snoc : ∀ (t : List UInt8) (c : UInt8), lev (t ++ [c]) = lev t + c.toNat * 256 ^ t.length
  | [], c => by simp [lev]
  | d :: t, c => by
    show d.toNat + 256 * lev (t ++ [c]) = d.toNat + 256 * lev t + _
    rw [lev_snoc t c, List.length_cons, Nat.pow_succ, Nat.mul_add, Nat.mul_comm (256 ^ t.length) 256, ← Nat.mul_assoc c.toNat, Nat.mul_comm c.toNat 256, Nat.mul_assoc]
    omega
theorem lev_lt : ∀ t : List UInt8, lev t < 256 ^ t.length
  | [] => by simp [lev]
  | c :: t => by
    have := lev_lt t
    have hc : c.toNat < 256 := c.toNat_lt
    rw [List.length_cons, Nat.pow_succ]
    show c.toNat + 256 * lev t < _
    omega

theorem or_shift (X j : Nat) (z : UInt8) (hX : X < 256 ^ j) (hj : j < 8) : bits .or .u64 (X : Int) (IntKind.u64.wrap ((z.toNat : Int) * 2 ^ (8 * j))) = ((X + z.toNat * 256 ^ j : Nat) : Int) := by
  have hz : z.toNat < 256 := z.toNat_lt
  have hp : (256 : Nat) ^ j = 2 ^ (8 * j) := by rw [show (256 : Nat) = 2 ^ 8 from rfl, ← Nat.pow_mul]
  have h8 : (2 : Nat) ^ (8 * j) ≤ 2 ^ 56 := Nat.pow_le_pow_right (by omega) (by omega)
  have h1 : z.toNat * 2 ^ (8 * j) ≤ 255 * 2 ^ (8 * j) := Nat.mul_le_mul_right _ (by omega)
  have hc : (z.toNat : Int) * 2 ^ (8 * j) = ((z.toNat * 2 ^ (8 * j) : Nat) : Int) := by rw [Int.natCast_mul, Int.natCast_pow]; rfl
  rw [hc, IntKind.wrap_u64, Int.emod_eq_of_lt (by omega) (by omega), u64_or_nat X _ (by omega) (by omega), Nat.or_comm, nat_join (8 * j) _ X (by simp) (by omega), hp, Nat.add_comm]

set_option maxHeartbeats 400000 in
theorem Rdr.word {w : World} {lo hi g : Nat} {l : List UInt8} {k e : Nat} (h : Rdr w lo hi g l k e) (hl : l.length ≤ 1000000000) (size : Int) :
    Calls Try.prog 11 #[.pointer (some ⟨g, 0, none⟩), .int .i64 size] w (RdGives w lo hi g l (.int .u64 (lev (takeS l k e (wsz size)).1)) (takeS l k e (wsz size)).2.1 (takeS l k e (wsz size)).2.2) := by
  have k1 := wsz_pos size
  have k8 := wsz_le size
  have CW := Lib.hid (fun w => (wordSize_any size w).mono (R' := fun e w' => e = .returned (.int .i64 (wsz size)) ∧ w = w') fun e w' h => ⟨h.1.trans (ret_int (by unfold wsz; omega)), h.2⟩)
  have CT := Lib.hid (h.take hl (wsz size) (by omega))
  have hlen : (takeS l k e (wsz size)).1.length ≤ 8 := by
    unfold takeS
    split
    · simp
    · split
      · simp
      · simp [List.length_take]; omega
  generalize wsz size = s at *
  generalize takeS l k e s = r at *
  obtain ⟨out, k2, e2⟩ := r
  simp only at CT hlen
  clear h
  generalize decide (e = 0 ∧ s ≤ l.length - k) = ok at *
  go_enter Try.func11, Try.ntmps11
  go_wp2_with (first | (go_at_call 39; refine (CW.out _).mono ?_; rintro e' w' ⟨rfl, rfl⟩) | (go_at_call 35; refine CT.out.mono ?_; rintro e' w1 ⟨hg1, hr1, A', c', rfl, hc1, hc2, hs⟩; have HG := Lib.hid hg1; have HR := Lib.hid hr1; clear hg1 hr1))
  go_loop [5, 8, 9, 20] (fun v _ _ i => ∃ j : Nat, j ≤ out.length ∧ i = .int .i64 j ∧ v = .int .u64 (lev (out.take j))) (fun _ _ _ i => out.length - (intOf i).toNat)
  case atStart => exact ⟨0, by omega, rfl, by simp [lev]⟩
  case round =>
    obtain ⟨j, hj, rfl, rfl⟩ := hrel
    by_cases hlt : j < out.length
    · obtain ⟨b, o, rfl, _, hcell⟩ := hs.lies (by omega)
      have hcj : w1.cell? ⟨b, o + j, none⟩ = some (.int .u8 (out[j].toNat : Int)) := by
        rw [hcell j hlt, bcs_get, List.getElem?_eq_getElem hlt]; rfl
      have HS : Hid (lev (out.take (j + 1)) = lev (out.take j) + out[j].toNat * 256 ^ j) := by
        rw [List.take_succ_eq_append_getElem hlt, lev_snoc, List.length_take, Nat.min_eq_left (by omega)]
        exact rfl
      have HX : Hid (lev (out.take j) < 256 ^ j) := by
        have := lev_lt (out.take j)
        rw [List.length_take, Nat.min_eq_left (by omega)] at this
        exact this
      clear hcell hs
      generalize lev (out.take j) = X at *
      generalize out[j] = z at *
      have hzb : z.toNat < 256 := z.toNat_lt
      go_wp2
      go_roundw
      case rel => exact ⟨j + 1, by omega, by go_num, by rw [HS.out, or_shift X j z HX.out (by omega)]⟩
      case measure => simp [intOf]; omega
    · obtain rfl : j = out.length := by omega
      go_wp2
      go_ret
      exact ⟨rfl, HG.out, HR.out⟩

theorem word_nil (size : Int) (w : World) : Calls Try.prog 11 #[.pointer none, .int .i64 size] w fun e' w' => e' = .returned (.int .u64 0) ∧ w = w' := by
  have k1 := wsz_pos size
  have k8 := wsz_le size
  have CW := Lib.hid (fun w => (wordSize_any size w).mono (R' := fun e w' => e = .returned (.int .i64 (wsz size)) ∧ w = w') fun e w' h => ⟨h.1.trans (ret_int (by unfold wsz; omega)), h.2⟩)
  generalize wsz size = s at *
  go_enter Try.func11, Try.ntmps11
  go_wp2_with (first | (go_at_call 39; refine (CW.out _).mono ?_; rintro e' w' ⟨rfl, rfl⟩) | (go_at_call 35; refine (take_nil _ _).mono ?_; rintro e' w' ⟨rfl, rfl⟩))
  refine wp_loop_rounds 1 ?_
  rw [rounds_succ]
  go_wp2
  go_ret
  exact ⟨rfl, rfl⟩
theorem takeN_nil (m : Int) (hm : m < 9223372036854775808) (w : World) : Calls Try.prog 30 #[.pointer none, .int .i64 m] w fun e' w' => e' = .returned (.slice none 0 0) ∧ w = w' := by
  go_enter Try.func30, Try.ntmps30
  go_wp2_with (first | (go_at_call 35; refine (take_nil _ _).mono ?_; rintro e' w' ⟨rfl, rfl⟩))
  have hq := fun w => Lib.run_eql_slice_nil (P := Try.prog) w 24 5 none 0 0 0 0 Try.underlying24
  go_wp2
  go_ret
  exact ⟨rfl, rfl⟩
theorem block_nil (w : World) : Calls Try.prog 12 #[.pointer none] w fun e' w' => e' = .returned (.slice none 0 0) ∧ w = w' := by
  go_enter Try.func12, Try.ntmps12
  go_wp2_with (first | (go_at_call 17; refine (err_nil _).mono ?_; rintro e' w' ⟨rfl, rfl⟩))
  go_ret
  exact ⟨rfl, rfl⟩
theorem zero33 (w : World) : (zeroValue 33).run Try.prog w = .ok (.agg (zarr 32)) w := by kernel_rfl
theorem build33 (w : World) : (Instr.build 33 #[]).run Try.prog w = .ok (.agg (zarr 32)) w := by kernel_rfl
theorem size33 : (Try.prog.info? 33).map (·.size) = some (zarr 32).size := by kernel_rfl
theorem zarr_one (n : Nat) : ∀ u ∈ (zarr n).toList, u.oneCell' = true := by rw [zarr_bcs]; exact bcs_one _

theorem under33 : Try.prog.underlying 33 = some (.array 32 5) := by kernel_rfl
theorem run_arr33 (A : Option Addr) (n c : Nat) (h : 32 ≤ n) (w : World) : (Instr.arrayAt 33 (.slice A n c)).run Try.prog w = .ok (.pointer A) w := by
  have hn : ¬ n < 32 := by omega
  simp [Instr.arrayAt, run_underlying under33, hn]

/-- Bytes as a digest; zero if there are not enough. -/
def dcells (out : List UInt8) : Array Value := if out.length = 32 then (bcs out).toArray else zarr 32

set_option maxHeartbeats 400000 in
theorem digest_nil (w : World) : Calls Try.prog 15 #[.pointer none] w fun e' w' => e' = .returned (.agg (zarr 32)) ∧ Below w.heap.size w w' := by
  have hb := build33
  go_enter Try.func15, Try.ntmps15
  go_wp2_with (first | (with_reducible refine wpList_alloc_row rfl 33 rfl (.agg (zarr 32)) zero33 ?_; intro w1 hh1 hz1 hg1) | (go_at_call 35; refine (take_nil _ _).mono ?_; rintro e' w' ⟨rfl, rfl⟩) | ((with_reducible show wpList _ _ _ (⟨none, .store 33 (.tmp 2) (.tmp 12), _, _, _, _⟩ :: _) _ _); refine wpList_store_all rfl 33 (.tmp 2) (.tmp 12) rfl w.heap.size rfl (zarr 32) rfl 33 (zarr 32) hh1 size33 rfl (zarr_one 32) ?_))
  intro w2 hh2 hg2 hz2
  go_wp2
  refine bodyPost_ret (results_cell_row rfl _ _ w.heap.size 33 (zarr 32) _ _ rfl hh2 under33 rfl size33) rfl ?_
  exact ⟨rfl, (below_of_grownBy hg1).grown hg2 (by omega) (by simp)⟩

theorem arr_cells {w : World} {b o : Nat} {out : List UInt8} (h : ∀ i, i < out.length → w.cell? ⟨b, o + i, none⟩ = (bcs out)[i]?) (i : Nat) (u : Value) (hu : (bcs out)[i]? = some u) : w.cell? ⟨b, o + i, none⟩ = some u := by
  have := (List.getElem?_eq_some_iff.1 hu).1
  rw [h i (by rw [← bcs_len]; exact this)]
  exact hu

set_option maxHeartbeats 400000 in
theorem Rdr.digest {w : World} {lo hi g : Nat} {l : List UInt8} {k e : Nat} (h : Rdr w lo hi g l k e) (hl : l.length ≤ 1000000000) :
    Calls Try.prog 15 #[.pointer (some ⟨g, 0, none⟩)] w (RdGives w lo hi g l (.agg (dcells (takeS l k e 32).1)) (takeS l k e 32).2.1 (takeS l k e 32).2.2) := by
  have CT := Lib.hid (fun w1 (hr : Rdr w1 lo hi g l k e) => hr.take hl 32 (by omega))
  have HO : Hid ((e = 0 ∧ 32 ≤ l.length - k → (takeS l k e 32).1.length = 32) ∧ (¬(e = 0 ∧ 32 ≤ l.length - k) → (takeS l k e 32).1 = [])) := by
    unfold takeS
    refine ⟨fun ⟨a, b⟩ => ?_, fun hno => ?_⟩
    · rw [if_neg (by omega), if_neg (by omega)]; simp [List.length_take, List.length_drop]; omega
    · split
      · rfl
      · rw [if_pos (by omega)]
  generalize takeS l k e 32 = r at *
  obtain ⟨out, k2, e2⟩ := r
  simp only at CT HO
  have hhi := h.hi_le
  have hlo := h.g_lt
  have HH := Lib.hid h
  clear h
  have hb := build33
  by_cases hok : e = 0 ∧ 32 ≤ l.length - k
  · have h32 := HO.out.1 hok
    have hd : dcells out = (bcs out).toArray := by unfold dcells; rw [if_pos h32]
    rw [decide_eq_true hok] at CT
    simp only [hd]
    have HS : Hid ((Try.prog.info? 33).map (·.size) = some (bcs out).toArray.size) := by rw [size33]; simp only [List.size_toArray, bcs_len, h32]; exact rfl
    have HZ : Hid ((bcs out).toArray.size = (zarr 32).size) := by simp only [List.size_toArray, bcs_len, h32]; exact rfl
    have hl32 : (32 : Int) ≤ ((out.length : Nat) : Int) := by omega
    have h32' := Lib.hid h32
    clear hok HO hd h32
    have harr := fun A c => run_arr33 A out.length c (by omega)
    go_enter Try.func15, Try.ntmps15
    go_wp2_with (first | (with_reducible refine wpList_alloc_row rfl 33 rfl (.agg (zarr 32)) zero33 ?_; intro w1 hh1 hz1 hg1; have HR1 := Lib.hid (HH.out.far hg1 (by simp)); have HG1 := Lib.hid hg1; have HH1 := Lib.hid hh1; clear hg1 hh1) | (go_at_call 35; refine (CT.out w1 HR1.out).mono ?_; rintro e' w2 ⟨hg2, hr2, A', c', rfl, hc1, hc2, hs2⟩; obtain ⟨b, o, rfl, hbl, hcell⟩ := hs2.lies (by omega); have HR2 := Lib.hid hr2; have HG2 := Lib.hid hg2; have HC := Lib.hid hcell; have HH2 : Hid (w2.heap[w.heap.size]? = some (.cells (zarr 32) 33 (0, 0))) := (hg2.block w.heap.size (by have := HG1.out.size; omega) (by simp; omega)).trans HH1.out; clear hr2 hg2 hcell hs2) | ((with_reducible show wpList _ _ _ (⟨_, .load 33 (.tmp 14), _, _, _, _⟩ :: _) _ _); refine wpList_load_arr rfl 33 (.tmp 14) rfl b o rfl (bcs out) (arr_cells HC.out) _ under33 rfl HS.out ?_) | ((with_reducible show wpList _ _ _ (⟨none, .store 33 (.tmp 2) (.tmp 15), _, _, _, _⟩ :: _) _ _); refine wpList_store_all rfl 33 (.tmp 2) (.tmp 15) rfl w.heap.size rfl (bcs out).toArray rfl 33 (zarr 32) HH2.out HS.out HZ.out (bcs_one out) ?_))
    intro w3 hh3 hg3 hz3
    have H3 := Lib.hid hh3
    have G3 := Lib.hid hg3
    clear hh3 hg3
    go_wp2
    refine bodyPost_ret (results_cell_row rfl _ _ w.heap.size 33 (bcs out).toArray _ _ rfl H3.out under33 rfl HS.out) rfl ?_
    have hb3 : Below w.heap.size w2 w3 := (Below.refl _ _).grown G3.out (by have := HG2.out.size; omega) (by simp)
    have hgg : w.grownBy w2 (some g) := grownBy_trans (grownBy_of_below (below_of_grownBy HG1.out) _) HG2.out
    refine ⟨rfl, ?_, HR2.out.below hb3 hhi⟩
    exact ⟨hb3.os.trans hgg.os, hb3.tape.trans hgg.tape, hb3.output.trans hgg.output, Nat.le_trans hgg.size hb3.size, fun i hi hne => (hb3.block i hi).trans (hgg.block i hi hne)⟩
  · have h32 := HO.out.2 hok
    subst h32
    have hd : dcells [] = zarr 32 := rfl
    rw [decide_eq_false hok] at CT
    simp only [hd]
    clear hok HO hd
    go_enter Try.func15, Try.ntmps15
    go_wp2_with (first | (with_reducible refine wpList_alloc_row rfl 33 rfl (.agg (zarr 32)) zero33 ?_; intro w1 hh1 hz1 hg1; have HR1 := Lib.hid (HH.out.far hg1 (by simp)); have HG1 := Lib.hid hg1; have HH1 := Lib.hid hh1; clear hg1 hh1) | (go_at_call 35; refine (CT.out w1 HR1.out).mono ?_; rintro e' w2 ⟨hg2, hr2, A', c', rfl, hc1, hc2, hs2⟩; have HR2 := Lib.hid hr2; have HG2 := Lib.hid hg2; have HH2 : Hid (w2.heap[w.heap.size]? = some (.cells (zarr 32) 33 (0, 0))) := (hg2.block w.heap.size (by have := HG1.out.size; omega) (by simp; omega)).trans HH1.out; clear hr2 hg2 hs2) | ((with_reducible show wpList _ _ _ (⟨none, .store 33 (.tmp 2) (.tmp 12), _, _, _, _⟩ :: _) _ _); refine wpList_store_all rfl 33 (.tmp 2) (.tmp 12) rfl w.heap.size rfl (zarr 32) rfl 33 (zarr 32) HH2.out size33 rfl (zarr_one 32) ?_))
    intro w3 hh3 hg3 hz3
    have H3 := Lib.hid hh3
    have G3 := Lib.hid hg3
    clear hh3 hg3
    go_wp2
    refine bodyPost_ret (results_cell_row rfl _ _ w.heap.size 33 (zarr 32) _ _ rfl H3.out under33 rfl size33) rfl ?_
    have hb3 : Below w.heap.size w2 w3 := (Below.refl _ _).grown G3.out (by have := HG2.out.size; omega) (by simp)
    have hgg : w.grownBy w2 (some g) := grownBy_trans (grownBy_of_below (below_of_grownBy HG1.out) _) HG2.out
    refine ⟨rfl, ?_, HR2.out.below hb3 hhi⟩
    exact ⟨hb3.os.trans hgg.os, hb3.tape.trans hgg.tape, hb3.output.trans hgg.output, Nat.le_trans hgg.size hb3.size, fun i hi hne => (hb3.block i hi).trans (hgg.block i hi hne)⟩
end Go.Proofs.Ytbcalhhfcnbppaa
