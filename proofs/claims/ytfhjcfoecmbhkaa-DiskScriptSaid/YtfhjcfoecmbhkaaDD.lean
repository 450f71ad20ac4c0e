/- A disk: writes that fail, clones of slices, a read. No statement is proved here. -/
import Derived.Test.YtfhjcfoecmbhkaaDC
namespace Go.Proofs.Ytfhjcfoecmbhkaa
open Go.RowKit Go.Maps
set_option linter.unusedVariables false
set_option linter.unusedSimpArgs false

section
variable {w : World} {lo hi p n : Nat} {S : Nat → List UInt8} {C : Nat → Option (List UInt8)}
set_option maxHeartbeats 600000 in
theorem write_out (h : Dk w lo hi p n S C) (z : Int) (hz : z < 0 ∨ (n : Int) ≤ z) (A : Option Addr) (m c : Nat) :
    Calls Try.prog 12 #[.pointer (some ⟨p, 0, none⟩), .int .i64 z, .slice A m c] w fun e w' => e = .returned (.int .i64 2) ∧ w' = w := by
  have hW := wrong_out h z hz
  clear h hz
  go_enter Try.func12, Try.ntmps12
  go_wp2_with (go_at_call 33; refine hW.mono ?_; rintro e w' ⟨rfl, rfl⟩)
  go_ret
  exact ⟨rfl, rfl⟩
set_option maxHeartbeats 600000 in
theorem write_len (h : Dk w lo hi p n S C) (i : Nat) (hi' : i < n) (A : Option Addr) (m c : Nat) (hm : m < 256 ∨ 256 < m) (hm2 : m ≤ 1000000000) :
    Calls Try.prog 12 #[.pointer (some ⟨p, 0, none⟩), .int .i64 (i : Int), .slice A m c] w fun e w' => e = .returned (.int .i64 2) ∧ w' = w := by
  have hW := wrong_in h i hi'
  have hne : ((m : Int) == 256) = false := by simp; omega
  clear h
  go_enter Try.func12, Try.ntmps12
  go_wp2_with (go_at_call 33; refine hW.mono ?_; rintro e w' ⟨rfl, rfl⟩)
  go_ret
  exact ⟨rfl, rfl⟩
end
set_option maxHeartbeats 600000 in
theorem write_nil (w : World) (z : Int) (A : Option Addr) (m c : Nat) :
    Calls Try.prog 12 #[.pointer none, .int .i64 z, .slice A m c] w fun e w' => e = .returned (.int .i64 1) ∧ w' = w := by
  have hW := wrong_nil z w
  go_enter Try.func12, Try.ntmps12
  go_wp2_with (go_at_call 33; refine hW.mono ?_; rintro e w' ⟨rfl, rfl⟩)
  go_ret
  exact ⟨rfl, rfl⟩

/-- A fresh slice of bytes that is not nil. -/
def FreshB (w w' : World) (v : Value) (l : List UInt8) : Prop := Fresh 5 w w' v l ∧ v ≠ .slice none 0 0

theorem eq_nil27 (w : World) (a : Option Addr) (n c n' c' : Nat) : (binOp .eql 27 (.slice a n c) (.slice none n' c')).run Try.prog w = .ok (.bool a.isNone) w := Lib.run_eql_slice_nil w _ _ a n c n' c' under27
theorem eq_nil59 (w : World) (a : Option Addr) (n c n' c' : Nat) : (binOp .eql 59 (.slice a n c) (.slice none n' c')).run Try.prog w = .ok (.bool a.isNone) w := Lib.run_eql_slice_nil w _ _ a n c n' c' under59

set_option maxRecDepth 100000 in
set_option maxHeartbeats 600000 in
/-- slices.Clone of bytes. -/
theorem cloneB_any (w : World) (SS : Nat → Prop) (b o n c : Nat) (l : List UInt8) (hs : Src w SS (some ⟨b, o, none⟩) n (bcs l)) (hS : ∀ g, SS g → g < w.heap.size) (hn : n ≤ 1000000000) :
    Calls Try.prog 34 #[.slice (some ⟨b, o, none⟩) n c] w fun e w' => ∃ v, e = .returned v ∧ Fresh 5 w w' v l := by
  obtain ⟨i0, hi, hz0, hz1, hz2⟩ := info_parts info5
  have hq := eq_nil27
  have hln : l.length = n := by have := hs.len; rw [bcs_len] at this; exact this
  have HS := Lib.hid (hs.alloc hS (.cells #[] 5))
  clear hs
  go_enter Try.func34, Try.ntmps34
  go_wp2_with (at_builtin; go_must (refine wpList_app _ rfl _ _ 27 rfl w.heap.size 5 i0 (.int .u8 0) 1 under27 hi hz0 hz1 hz2 rfl _ 0 [] rfl (World.ownsRow_made w #[] 0 (Nat.le_refl _) (Nat.zero_le _) (by simp)) SS _ n c (bcs l) rfl HS.out (bcs_one l) (by unfold maxLen; omega) (by omega) (by simp) ?_; intro v2 w2 hown hg _))
  go_ret
  refine ⟨v2, rfl, ?_, ?_⟩
  · have := own_as (by simpa using hown) l rfl
    exact this
  · exact ((Below.refl _ w).alloc (Nat.le_refl _) _).grown hg (by simp) (by intro k hk; have hk2 : some w.heap.size = some k := hk; injection hk2 with hk2; omega)

theorem ownsRow_base4 {W : World} {base base' : Nat} {e : TypeId} {size : Nat} {v : Value} {k : Nat} {xs : List Value} (h : W.ownsRow base e size v k xs) (hb : base' ≤ base) : W.ownsRow base' e size v k xs := by
  obtain ⟨h1, h2⟩ := h
  refine ⟨h1, h2.imp id ?_⟩
  rintro ⟨g, cap, cur, e1, e2, r⟩
  exact ⟨g, cap, cur, e1, by omega, r⟩
section
variable {w : World} {lo hi p n : Nat} {S : Nat → List UInt8} {C : Nat → Option (List UInt8)}
/-- What a read of a sector gives. -/
def rd (S : Nat → List UInt8) (C : Nat → Option (List UInt8)) (i : Nat) : List UInt8 := (C i).getD (S i)
set_option maxRecDepth 100000 in
set_option maxHeartbeats 600000 in
theorem read_in (h : Dk w lo hi p n S C) (i : Nat) (hi' : i < n) :
    Calls Try.prog 11 #[.pointer (some ⟨p, 0, none⟩), .int .i64 (i : Int)] w fun e w' => ∃ v, e = .returned (.tuple #[v, .int .i64 0]) ∧ w'.ownsRow w.heap.size 5 1 v 256 (bcs (rd S C i)) ∧ Below w.heap.size w w' := by
  have hW := wrong_in h i hi'
  obtain ⟨bs, bm, cap, cur, D, h⟩ := h
  have c0 := h.c0
  have c1 := h.c1
  have hnn := h.n2
  have HM := Lib.hid h.hm
  have HCA := Lib.hid h.ca
  have HH := Lib.hid h
  have h0 : (i : Int) < (n : Int) := by omega
  have M1 : Hid True := trivial
  have HSI : Hid (∀ j u, (bcs (S i))[j]? = some u → w.cell? ⟨bs, i * 256 + j, none⟩ = some u) := Lib.hid (fun j u hj => by
    have hj2 : j < 256 := by have := (List.getElem?_eq_some_iff.1 hj).1; rw [bcs_len, h.sok i hi'] at this; exact this
    have h2 := flat_byte h.sok hi' hj2
    have h3 : (bcs (flat n S))[256 * i + j]? = some u := by rw [bcs_get, h2, ← bcs_get]; exact hj
    rw [← h.ht, List.getElem?_take] at h3
    split at h3
    · rw [cell_of_row w bs _ _ _ _ h.hs, show i * 256 + j = 256 * i + j from by omega]
      simpa using h3
    · cases h3)
  have HSL := Lib.hid (h.sok i hi')
  have HCL := Lib.hid (h.cok i hi')
  clear h
  rcases hc : C i with _ | s
  · unfold rd
    rw [hc]
    simp only [Option.getD_none]
    go_enter Try.func11, Try.ntmps11
    go_wp2_with (first | (go_at_call 33; refine hW.mono ?_; rintro e w' ⟨rfl, rfl⟩) | (at_lookup; refine wpList_look2 rfl _ _ rfl (n := n) rfl HM.out HCA.out rfl hi' hnn none hc ?_) | (clear M1; with_reducible refine wpList_al63 rfl rfl ?_; go_must (intro w1 hh1 hz1 hg1; have HG1 := Lib.hid hg1; have HH1 : Hid (w1.heap[w'.heap.size]? = some (.cells (zarr 256) 63 (0, 0))) := Lib.hid hh1; clear hg1 hh1)) | ((with_reducible show wpList _ _ _ (⟨none, .store 63 (.tmp 7) (.tmp 22), _, _, _, _⟩ :: _) _ _); go_must (refine wpList_store_all rfl 63 (.tmp 7) (.tmp 22) rfl w'.heap.size rfl _ rfl 63 (zarr 256) HH1.out (by rw [size63]; simp [bcs_len, zs_len]) (by simp [bcs_len, zs_len, zarr]) (by simpa using bcs_one _) ?_; intro w2 hh2 hg2 hz2; have hb2 : w'.grownBy w2 none := ⟨hg2.os.trans HG1.out.os, hg2.tape.trans HG1.out.tape, hg2.output.trans HG1.out.output, by have := HG1.out.size; omega, fun k hk _ => (hg2.block k (by have := HG1.out.size; omega) (by simp; omega)).trans (HG1.out.block k hk (by simp))⟩; have hp1 := HH.out.p1; have hle := HH.out.hle; have HB2 := Lib.hid (below_of_grownBy hb2); have c02 := (HB2.out.cell (p := ⟨p, 0, none⟩) (by show p < _; omega)).trans c0; have c12 := (HB2.out.cell (p := ⟨p, 1, none⟩) (by show p < _; omega)).trans c1; have HH2 := Lib.hid hh2; clear hg2 hb2 hh2 c0 c1 hp1 hle)) | ((with_reducible show wpList _ _ _ (⟨some 32, .load 63 (.tmp 31), _, _, _, _⟩ :: _) _ _); refine wpList_load_arr rfl 63 (.tmp 31) rfl bs (i * 256) rfl (bcs (S i)) (fun j u hu => (HB2.out.cell (p := ⟨bs, i * 256 + j, none⟩) (by show bs < _; have := HH.out.s1; have := HH.out.hle; omega)).trans (HSI.out j u hu)) _ under63 rfl (by rw [size63, bcs_len, HSL.out]) ?_) | ((with_reducible show wpList _ _ _ (⟨none, .store 63 (.tmp 7) (.tmp 32), _, _, _, _⟩ :: _) _ _); refine wpList_store_all rfl 63 (.tmp 7) (.tmp 32) rfl w'.heap.size rfl _ rfl 63 _ HH2.out (by rw [size63]; simp [bcs_len, HSL.out]) (by simp [bcs_len, HSL.out, zs_len]) (by simpa using bcs_one _) ?_; intro w3 hh3 hg3 hz3; have HC3 := Lib.hid (cloneB_any w3 (fun g => g = w'.heap.size) w'.heap.size 0 256 256 (S i) ⟨by rw [bcs_len, HSL.out], fun _ => ⟨_, _, rfl, rfl, fun k hk => by rw [cell_of_row w3 _ _ _ _ _ hh3]; simp⟩⟩ (fun g hg => by omega) (by omega)); have HB3 := Lib.hid (HB2.out.grown hg3 (by omega) (fun r hr => by cases hr; omega)); clear hg3 hh3) | (go_at_call 34; refine HC3.out.mono ?_; rintro e4 w4 ⟨v4, rfl, hf4⟩))
    go_ret2
    refine ⟨v4, rfl, ?_, HB3.out.trans (hf4.2.mono (by omega))⟩
    have h4 := hf4.1
    rw [HSL.out] at h4
    exact ownsRow_base4 h4 (by omega)
  · unfold rd
    rw [hc]
    simp only [Option.getD_some]
    have HSS := Lib.hid (HCL.out s hc)
    go_enter Try.func11, Try.ntmps11
    go_wp2_with (first | (go_at_call 33; refine hW.mono ?_; rintro e w' ⟨rfl, rfl⟩) | (at_lookup; refine wpList_look2 rfl _ _ rfl (n := n) rfl HM.out HCA.out rfl hi' hnn (some s) hc ?_) | (clear M1; with_reducible refine wpList_al63 rfl rfl ?_; go_must (intro w1 hh1 hz1 hg1; have HG1 := Lib.hid hg1; have HH1 : Hid (w1.heap[w'.heap.size]? = some (.cells (zarr 256) 63 (0, 0))) := Lib.hid hh1; clear hg1 hh1)) | ((with_reducible show wpList _ _ _ (⟨none, .store 63 (.tmp 7) (.tmp 22), _, _, _, _⟩ :: _) _ _); go_must (refine wpList_store_all rfl 63 (.tmp 7) (.tmp 22) rfl w'.heap.size rfl _ rfl 63 (zarr 256) HH1.out (by rw [size63]; simp [bcs_len, HSS.out]) (by simp [bcs_len, HSS.out, zarr]) (by simpa using bcs_one _) ?_; intro w2 hh2 hg2 hz2; have hb2 : w'.grownBy w2 none := ⟨hg2.os.trans HG1.out.os, hg2.tape.trans HG1.out.tape, hg2.output.trans HG1.out.output, by have := HG1.out.size; omega, fun k hk _ => (hg2.block k (by have := HG1.out.size; omega) (by simp; omega)).trans (HG1.out.block k hk (by simp))⟩; have HB2 := Lib.hid (below_of_grownBy hb2); have HC3 := Lib.hid (cloneB_any w2 (fun g => g = w'.heap.size) w'.heap.size 0 256 256 s ⟨by rw [bcs_len, HSS.out], fun _ => ⟨_, _, rfl, rfl, fun k hk => by rw [cell_of_row w2 _ _ _ _ _ hh2]; simp⟩⟩ (fun g hg => by omega) (by omega)); clear hg2 hb2 hh2 c0 c1)) | (go_at_call 34; refine HC3.out.mono ?_; rintro e4 w4 ⟨v4, rfl, hf4⟩))
    go_ret2
    refine ⟨v4, rfl, ?_, HB2.out.trans (hf4.2.mono (by omega))⟩
    have h4 := hf4.1
    rw [HSS.out] at h4
    exact ownsRow_base4 h4 (by omega)
set_option maxHeartbeats 600000 in
theorem read_out (h : Dk w lo hi p n S C) (z : Int) (hz : z < 0 ∨ (n : Int) ≤ z) :
    Calls Try.prog 11 #[.pointer (some ⟨p, 0, none⟩), .int .i64 z] w fun e w' => e = .returned (.tuple #[.slice none 0 0, .int .i64 2]) ∧ w' = w := by
  have hW := wrong_out h z hz
  clear h hz
  go_enter Try.func11, Try.ntmps11
  go_wp2_with (go_at_call 33; refine hW.mono ?_; rintro e w' ⟨rfl, rfl⟩)
  go_ret2
  exact ⟨rfl, rfl⟩
end
set_option maxHeartbeats 600000 in
theorem read_nil (w : World) (z : Int) :
    Calls Try.prog 11 #[.pointer none, .int .i64 z] w fun e w' => e = .returned (.tuple #[.slice none 0 0, .int .i64 1]) ∧ w' = w := by
  have hW := wrong_nil z w
  go_enter Try.func11, Try.ntmps11
  go_wp2_with (go_at_call 33; refine hW.mono ?_; rintro e w' ⟨rfl, rfl⟩)
  go_ret2
  exact ⟨rfl, rfl⟩
end Go.Proofs.Ytfhjcfoecmbhkaa
