/- The examples that each statement asks first. No statement is proved here. -/
import Derived.Test.YtphalfpmgbmcaaaT6
import Derived.Laws.IdiomStrings
import Derived.Lib.SlBytesConst
namespace Go.Proofs.Ytphalfpmgbmcaaa
open Go.RowKit
set_option linter.unusedVariables false

/-- A source as a string. -/
theorem conv_src {w : World} {S : Nat → Prop} {A : Option Addr} {n c : Nat} {l : List UInt8} (h : Src w S A n (bcs l)) : (convert 30 9 (.slice A n c)).run Try.prog w = .ok (.string ⟨l.toArray⟩) w := by
  have hl := src_len h
  subst hl
  rcases A with _ | ad
  · have h0 : l = [] := by
      rcases Nat.eq_zero_or_pos l.length with h0 | h0
      · exact List.eq_nil_of_length_eq_zero h0
      · obtain ⟨b, o, e, _⟩ := h.lies h0
        cases e
    subst h0
    have := run_convert_bytes_string (P := Try.prog) w 30 9 5 none 0 c Try.underlying30 Try.underlying5 Try.underlying9
    rw [show ([] : List UInt8).length = 0 from rfl, this]
    rfl
  · refine run_convert_bytes_back w 30 9 5 ad c l Try.underlying30 Try.underlying5 Try.underlying9 fun j hj => ?_
    obtain ⟨b, o, e, _, hc⟩ := h.lies (by omega)
    injection e with e
    subst e
    have hadd : (⟨b, o, none⟩ : Addr).add j = ⟨b, o + j, none⟩ := by unfold Addr.add; split <;> simp_all
    rw [hadd, hc j hj, bcs_get, List.getElem?_eq_getElem hj]
    rfl
/-- A literal as a source. -/
theorem Src.lit (w : World) (cs : Array Value) (e : TypeId) (fz : Nat × Nat) (l : List UInt8) (h : cs.toList = bcs l) : Src (w.alloc (.cells cs e fz)) (· < w.heap.size + 1) (some ⟨w.heap.size, 0, none⟩) l.length (bcs l) := by
  refine ⟨bcs_len l, fun _ => ⟨w.heap.size, 0, rfl, by omega, fun i hi => ?_⟩⟩
  rw [cell_of_row _ w.heap.size (0 + i) cs e fz (heap_alloc_new w _), Nat.zero_add, ← h]
  simp
/-- One part, written out. -/
theorem parts_lit (w : World) (cs : Array Value) (fz : Nat × Nat) (l : List UInt8) (h : cs.toList = bcs l) (n : Nat) (hn : n = l.length) (hm : n ≤ 1000000000) :
    Parts ((w.alloc (.cells cs 5 fz)).alloc (.cells #[.slice (some ⟨w.heap.size, 0, none⟩) n n] 30)) (· < w.heap.size + 2) (some ⟨w.heap.size + 1, 0, none⟩) [l] := by
  subst hn
  refine ⟨fun i hi => ?_⟩
  obtain rfl : i = 0 := by simpa using hi
  refine ⟨w.heap.size + 1, 0, some ⟨w.heap.size, 0, none⟩, l.length, l.length, rfl, by omega, ?_, ?_, Nat.le_refl _, by unfold maxLen; omega⟩
  · have hh := heap_alloc_new (w.alloc (.cells cs 5 fz)) (.cells #[.slice (some ⟨w.heap.size, 0, none⟩) l.length l.length] 30)
    rw [World.size_alloc] at hh
    rw [cell_of_row _ (w.heap.size + 1) (0 + 0) _ 30 (0, 0) hh]
    rfl
  · have := (Src.lit w cs 5 fz l h).alloc (fun b hb => by simp; omega) (.cells #[.slice (some ⟨w.heap.size, 0, none⟩) l.length l.length] 30)
    exact this.weak (fun b hb => by omega)

theorem abc512_8 : (sum512 [97, 98, 99]).take 8 = [221, 175, 53, 161, 147, 97, 122, 186] := by
  unfold sum512
  rw [abc512]
  decide +kernel
theorem abc256_8 : (sum256 [97, 98, 99]).take 8 = [83, 4, 142, 38, 129, 148, 30, 249] := by
  unfold sum256
  rw [abc256]
  decide +kernel
theorem root2_any (w : World) : Calls Try.prog 13 #[.int .u64 2] w (Gives (.int .u64 7640891576956012808) w) := by
  have h := root_any 2 w
  rw [show 2 % 4294967296 = 2 from rfl, root_2_2] at h
  exact h
theorem cube2_any (w : World) : Calls Try.prog 14 #[.int .u64 2] w (Gives (.int .u64 4794697086780616226) w) := by
  have h := cube_any 2 w
  rw [show 2 % 4294967296 = 2 from rfl, root_2_3] at h
  exact h
/-- The head of a row as a source. -/
theorem src_head {w : World} {g n : Nat} {l : List UInt8} {t : TypeId} (h : w.heap[g]? = some (.cells (bcs l).toArray t (0, 0))) (hn : n ≤ l.length) : Src w (· < w.heap.size) (some ⟨g, 0, none⟩) n (bcs (l.take n)) := by
  refine ⟨by rw [bcs_len, List.length_take]; omega, fun h0 => ⟨g, 0, rfl, (Array.getElem?_eq_some_iff.1 h).1, fun i hi => ?_⟩⟩
  rw [cell_of_row w g (0 + i) _ _ _ h, Nat.zero_add, bcs_takeD, List.getElem?_take, if_pos hi]
  simp

def w3s (w : World) : Nat := w.heap.size + 1
set_option maxRecDepth 100000 in
set_option maxHeartbeats 1000000 in
theorem lives_any (w : World) : Calls Try.prog 12 #[] w (Gives (.bool true) w) := by
  have H5 := Lib.hid abc512_8
  have H2 := Lib.hid abc256_8
  have L5 := Lib.hid (sum512_len [97, 98, 99])
  have L2 := Lib.hid (sum256_len [97, 98, 99])
  have C5 : Hid (∀ (w : World) (S : Nat → Prop) (P : Option Addr) (pc : Nat), Parts w S P [[97, 98, 99]] → (∀ b, S b → b < w.heap.size) → Calls Try.prog 9 #[.slice P 1 pc] w (Gives (.agg (bcs (sum512 [97, 98, 99])).toArray) w)) :=
    fun w S P pc hp hS => sum512_any [[97, 98, 99]] w S P pc hp hS (by simp) (by simp)
  have C2 : Hid (∀ (w : World) (S : Nat → Prop) (P : Option Addr) (pc : Nat), Parts w S P [[97, 98, 99]] → (∀ b, S b → b < w.heap.size) → Calls Try.prog 18 #[.slice P 1 pc] w (Gives (.agg (bcs (sum256 [97, 98, 99])).toArray) w)) :=
    fun w S P pc hp hS => sum256_any [[97, 98, 99]] w S P pc hp hS (by simp) (by simp)
  generalize sum512 [97, 98, 99] = F5 at *
  generalize sum256 [97, 98, 99] = F2 at *
  have hcv := fun (w : World) (C : Array Value) (n c : Nat) => Lib.run_convert_bytes_const (P := Try.prog) w 30 5 C n c Try.underlying30 Try.underlying5
  go_enter Try.func12, Try.ntmps12
  go_wp2_with fail
  refine (C5.out _ (· < w.heap.size + 2) _ _ (parts_lit w #[.int .u8 97, .int .u8 98, .int .u8 99] _ [97, 98, 99] rfl 3 rfl (by omega)) (fun b hb => by simp; omega)).mono ?_
  rintro e1 w1 ⟨rfl, hb1⟩
  have B1 : Hid (Below w.heap.size w w1) := ((below_alloc w _).trans ((below_alloc _ _).mono (by simp))).trans (hb1.mono (by simp; omega))
  clear hb1
  go_wp2_with fail
  refine (C2.out _ (· < w1.heap.size + 2) _ _ (parts_lit w1 #[.int .u8 97, .int .u8 98, .int .u8 99] _ [97, 98, 99] rfl 3 rfl (by omega)) (fun b hb => by simp; omega)).mono ?_
  rintro e2 w2 ⟨rfl, hb2⟩
  have B2 : Hid (Below w.heap.size w w2) := B1.out.trans ((((below_alloc w1 _).trans ((below_alloc _ _).mono (by simp))).trans (hb2.mono (by simp; omega))).mono B1.out.size)
  clear hb2 B1 C5 C2 hcv
  have HF5 := Lib.hid (show (Try.prog.info? 22).map (·.size) = some (bcs F5).toArray.size from by rw [size22]; simp [bcs_len, L5.out])
  have HF5z := Lib.hid (show (bcs F5).toArray.size = (zbs 64).size from by simp [bcs_len, L5.out, zbs])
  have HF2 := Lib.hid (show (Try.prog.info? 35).map (·.size) = some (bcs F2).toArray.size from by rw [size35]; simp [bcs_len, L2.out])
  have HF2z := Lib.hid (show (bcs F2).toArray.size = (zbs 32).size from by simp [bcs_len, L2.out, zbs])
  have HK : Hid (∀ w3 w4 : World, w3.heap[w2.heap.size]? = some (.cells (Value.agg (zbs 64)).cells 22 (0, 0)) → w3.heap.size = w2.heap.size + 1 → w3.grownBy w4 none → w4.heap[w2.heap.size]? = some (.cells (zbs 64) 22 (0, 0))) := fun w3 w4 h z g => (g.block _ (by omega) (by simp)).trans h
  have HK2 : Hid (∀ w3 w4 w5 : World, w3.heap.size = w2.heap.size + 1 → w4.heap[w3.heap.size]? = some (.cells (Value.agg (zbs 32)).cells 35 (0, 0)) → w4.heap.size = w3.heap.size + 1 → w4.grownBy w5 (some w2.heap.size) → w5.heap[w3.heap.size]? = some (.cells (zbs 32) 35 (0, 0))) := fun w3 w4 w5 z3 h4 z4 g5 =>
    (g5.block _ (by omega) (by simp; omega)).trans h4
  have HV5 : Hid (∀ w5 w6 : World, w5.heap[w2.heap.size]? = some (.cells (bcs F5).toArray 22 (0, 0)) → w2.heap.size < w3s w2 → w5.grownBy w6 (some (w3s w2)) → (convert 30 9 (.slice (some ⟨w2.heap.size, 0, none⟩) 8 64)).run Try.prog w6 = .ok (.string ⟨#[221, 175, 53, 161, 147, 97, 122, 186]⟩) w6) := fun w5 w6 h5 hw g6 => by
    have hh : w6.heap[w2.heap.size]? = some (.cells (bcs F5).toArray 22 (0, 0)) := (g6.block _ (Array.getElem?_eq_some_iff.1 h5).1 (by simp; omega)).trans h5
    have := conv_src (c := 64) (src_head (n := 8) hh (by rw [L5.out]; omega))
    rw [H5.out] at this
    exact this
  have HV2 : Hid (∀ (w6 : World) (g : Nat), w6.heap[g]? = some (.cells (bcs F2).toArray 35 (0, 0)) → (convert 30 9 (.slice (some ⟨g, 0, none⟩) 8 32)).run Try.prog w6 = .ok (.string ⟨#[83, 4, 142, 38, 129, 148, 30, 249]⟩) w6) := fun w6 g hh => by
    have := conv_src (c := 32) (src_head (n := 8) hh (by rw [L2.out]; omega))
    rw [H2.out] at this
    exact this
  have HBL : Hid (∀ w3 w4 w5 w6 : World, w3.heap.size = w2.heap.size + 1 → w2.grownBy w3 none → w3.grownBy w4 none → w4.grownBy w5 (some w2.heap.size) → w5.grownBy w6 (some w3.heap.size) → Below w.heap.size w w6) := fun w3 w4 w5 w6 z3 g3 g4 g5 g6 => by
    have z2 := B2.out.size
    have a3 := B2.out.grown g3 z2 (by simp)
    have a4 := a3.grown g4 (by omega) (by simp)
    have a5 := a4.grown g5 a4.size (fun r hr => by injection hr; omega)
    exact a5.grown g6 a5.size (fun r hr => by injection hr; omega)
  have M1 : Hid True := trivial
  go_wp2_with (first | (clear M1; with_reducible refine wpList_alloc_row rfl 22 rfl (.agg (zbs 64)) zero22 ?_; intro w3 hh3 hz3 hg3; have Z3 := Lib.hid hz3; have H3 := Lib.hid hh3; have G3 := Lib.hid hg3; clear hh3 hg3) | (with_reducible refine wpList_alloc_row rfl 35 rfl (.agg (zbs 32)) zero35 ?_; intro w4 hh4 hz4 hg4; have Z4 := Lib.hid hz4; have H4 := Lib.hid hh4; have G4 := Lib.hid hg4; have H43 := Lib.hid (HK.out w3 w4 H3.out Z3.out hg4); clear hh4 hg4 hz4) | ((with_reducible show wpList _ _ _ (⟨none, .store 22 (.tmp 1) (.tmp 6), _, _, _, _⟩ :: _) _ _); refine wpList_store_all rfl 22 (.tmp 1) (.tmp 6) rfl w2.heap.size rfl (bcs F5).toArray rfl 22 (zbs 64) H43.out HF5.out HF5z.out (bcs_one _) ?_; intro w5 hh5 hg5 hz5; have H5w := Lib.hid hh5; have G5 := Lib.hid hg5; have Z5 := Lib.hid hz5; have H45 := Lib.hid (HK2.out w3 w4 w5 Z3.out H4.out Z4.out hg5); clear hh5 hg5 hz5) | ((with_reducible show wpList _ _ _ (⟨none, .store 35 (.tmp 2) (.tmp 10), _, _, _, _⟩ :: _) _ _); refine wpList_store_all rfl 35 (.tmp 2) (.tmp 10) rfl w3.heap.size rfl (bcs F2).toArray rfl 35 (zbs 32) H45.out HF2.out HF2z.out (bcs_one _) ?_; intro w6 hh6 hg6 hz6; have e3 : w3.heap.size = w3s w2 := Z3.out; have k5 := HV5.out w5 w6 H5w.out (by unfold w3s; omega) (by rw [← e3]; exact hg6); have k2 := HV2.out w6 _ hh6; have BF := Lib.hid (HBL.out w3 w4 w5 w6 Z3.out G3.out G4.out G5.out hg6); clear e3 hh6 hg6 hz6 HV5 HV2 HBL H45 H43 H5w G5 G4 G3 H4 H3 Z3 Z4 Z5 hz3) | (go_at_call 13; refine (root2_any _).mono ?_; rintro e7 w7 ⟨rfl, hb7⟩; clear k5 k2; have BF7 := Lib.hid (BF.out.trans (hb7.mono BF.out.size)); clear hb7) | (go_at_call 14; refine (cube2_any _).mono ?_; rintro e8 w8 ⟨rfl, hb8⟩; have BF8 := Lib.hid (BF7.out.trans (hb8.mono BF7.out.size)); clear hb8))
  go_ret
  exact ⟨rfl, BF8.out⟩
end Go.Proofs.Ytphalfpmgbmcaaa
