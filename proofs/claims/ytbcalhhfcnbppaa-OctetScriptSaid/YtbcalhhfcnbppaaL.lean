/- The examples that each statement asks first ('lives'), and bytes as strings. No statement is proved here. -/
import Derived.Test.YtbcalhhfcnbppaaG
import Derived.Laws.IdiomStrings
namespace Go.Proofs.Ytbcalhhfcnbppaa
open Go.RowKit

/-- A source as a string. -/
theorem conv_src {w : World} {S : Nat → Prop} {A : Option Addr} {n c : Nat} {l : List UInt8} (h : Src w S A n (bcs l)) : (convert 24 9 (.slice A n c)).run Try.prog w = .ok (.string ⟨l.toArray⟩) w := by
  have hl := src_len h
  subst hl
  rcases A with _ | ad
  · have h0 : l = [] := by
      rcases Nat.eq_zero_or_pos l.length with h0 | h0
      · exact List.eq_nil_of_length_eq_zero h0
      · obtain ⟨b, o, e, _⟩ := h.lies h0
        cases e
    subst h0
    have := run_convert_bytes_string (P := Try.prog) w 24 9 5 none 0 c Try.underlying24 Try.underlying5 Try.underlying9
    rw [show ([] : List UInt8).length = 0 from rfl, this]
    rfl
  · refine run_convert_bytes_back w 24 9 5 ad c l Try.underlying24 Try.underlying5 Try.underlying9 fun j hj => ?_
    obtain ⟨b, o, e, _, hc⟩ := h.lies (by omega)
    injection e with e
    subst e
    have hadd : (⟨b, o, none⟩ : Addr).add j = ⟨b, o + j, none⟩ := by unfold Addr.add; split <;> simp_all
    rw [hadd, hc j hj, bcs_get, List.getElem?_eq_getElem hj]
    rfl
/-- An owned row of bytes: its shape, as a source. -/
theorem own_shape {w : World} {B : Nat} {v : Value} {n : Nat} {l : List UInt8} (h : w.ownsRow B 5 1 v n (bcs l)) : ∃ A c, v = .slice A n c ∧ n ≤ c ∧ c ≤ maxLen ∧ Src w (fun g => B ≤ g ∧ g < w.heap.size) A n (bcs l) := by
  rcases h.2 with ⟨rfl, h0⟩ | ⟨g, cap, cur, rfl, hb, hg, hnc, hcm, hcs, ht⟩
  · subst h0
    have hl : l = [] := List.eq_nil_of_length_eq_zero (by have := h.1; rw [bcs_len] at this; omega)
    subst hl
    exact ⟨none, 0, rfl, Nat.le_refl _, by simp [maxLen], Src.nil_ _ _ _⟩
  · exact ⟨_, cap, rfl, hnc, hcm, Src.own h fun g a b => ⟨a, b⟩⟩
/-- A literal as a source. -/
theorem Src.lit (w : World) (cs : Array Value) (e : TypeId) (l : List UInt8) (h : cs.toList = bcs l) : Src (w.alloc (.cells cs e)) (· < w.heap.size + 1) (some ⟨w.heap.size, 0, none⟩) l.length (bcs l) := by
  refine ⟨bcs_len l, fun _ => ⟨w.heap.size, 0, rfl, by omega, fun i hi => ?_⟩⟩
  rw [cell_of_row _ w.heap.size (0 + i) cs e (0, 0) (heap_alloc_new w _), Nat.zero_add, ← h]
  simp

/-- A reader of a literal. -/
theorem read_lit (w : World) (cs : Array Value) (l : List UInt8) (h : cs.toList = bcs l) (hl : l.length ≤ 1000000000) (n : Nat) (hn : n = l.length) :
    Calls Try.prog 9 #[.slice (some ⟨w.heap.size, 0, none⟩) n n] (w.alloc (.cells cs 5)) fun e w' => ∃ g, e = .returned (.pointer (some ⟨g, 0, none⟩)) ∧ Rdr w' (w.heap.size + 1) w'.heap.size g l 0 0 ∧ Below w.heap.size w w' := by
  subst hn
  refine (read_any (w.alloc (.cells cs 5)) _ _ _ _ l (Src.lit w cs 5 l h) (fun b hb => by simp; omega) hl).mono ?_
  rintro e w' ⟨g, he, hr, hb⟩
  have hs : (w.alloc (.cells cs 5)).heap.size = w.heap.size + 1 := by simp
  rw [hs] at hr hb
  exact ⟨g, he, hr, ((Below.refl _ w).alloc (Nat.le_refl _) _).trans (hb.mono (by omega))⟩

theorem ex_num : numS [128, 127] 0 0 = (0, 0, 4) := by decide +kernel
theorem ex_blk : blkS [2, 97] 0 0 = ([], 0, 5) := by decide +kernel
theorem ex_300 : encN 300 = [129, 44] := by decide +kernel
theorem ex_128 : encN 128 = [128, 128] := by decide +kernel

/-- What a call leaves: a value, and everything older as it was. -/
def TrueBelow (w : World) (e : Ending) (w' : World) : Prop := e = .returned (.bool true) ∧ Below w.heap.size w w'

set_option maxHeartbeats 1000000 in
theorem lives_any (w : World) : Calls Try.prog 16 #[] w (TrueBelow w) := by
  go_enter Try.func16, Try.ntmps16
  go_wp2_with fail
  refine (read_lit w #[.int .u8 128, .int .u8 127] [128, 127] rfl (by simp) 2 rfl).mono ?_
  rintro e1 w1 ⟨g1, rfl, hr1, hb1⟩
  have HR1 := Lib.hid hr1
  have HB1 := Lib.hid hb1
  have h1 := hb1.size
  clear hr1 hb1
  go_wp2_with fail
  refine (read_lit w1 #[.int .u8 2, .int .u8 97] [2, 97] rfl (by simp) 2 rfl).mono ?_
  rintro e2 w2 ⟨g2, rfl, hr2, hb2⟩
  have HR2 := Lib.hid hr2
  have HB2 := Lib.hid hb2
  have h2 := hb2.size
  clear hr2 hb2
  go_wp2_with fail
  refine (number_any w2 (fun _ => False) none 0 0 [] 300 (Src.nil_ _ _ _) (fun _ h => h.elim) (by omega) (by omega)).mono ?_
  rintro e3 w3 ⟨v3, rfl, ho3, hb3⟩
  have hl3 : (([] : List UInt8) ++ encN 300).length = 2 := by decide +kernel
  rw [show ([] : List UInt8) ++ encN 300 = [129, 44] from by decide +kernel] at ho3
  obtain ⟨A3, c3, rfl, _, _, hs3⟩ := own_shape ho3
  have hc3 : (convert 24 9 (.slice A3 2 c3)).run Try.prog w3 = .ok (.string ⟨#[129, 44]⟩) w3 := conv_src hs3
  have HB3 := Lib.hid hb3
  have hz3 := hb3.size
  clear ho3 hs3 hb3 hl3
  go_wp2_with fail
  clear hc3
  refine (number_any w3 (fun _ => False) none 0 0 [] 128 (Src.nil_ _ _ _) (fun _ h => h.elim) (by omega) (by omega)).mono ?_
  rintro e4 w4 ⟨v4, rfl, ho4, hb4⟩
  rw [show ([] : List UInt8) ++ encN 128 = [128, 128] from by decide +kernel] at ho4
  obtain ⟨A4, c4, rfl, _, _, hs4⟩ := own_shape ho4
  have hc4 : (convert 24 9 (.slice A4 2 c4)).run Try.prog w4 = .ok (.string ⟨#[128, 128]⟩) w4 := conv_src hs4
  have HB4 := Lib.hid hb4
  have hz4 := hb4.size
  clear ho4 hs4 hb4
  go_wp2_with fail
  clear hc4
  have HRa := Lib.hid (((HR1.out.below HB2.out (Nat.le_refl _)).below HB3.out (by omega)).below HB4.out (by omega))
  have HRb := Lib.hid ((HR2.out.below HB3.out (Nat.le_refl _)).below HB4.out (by omega))
  have HB := Lib.hid (((HB1.out.trans (HB2.out.mono h1)).trans (HB3.out.mono (by omega))).trans (HB4.out.mono (by omega)))
  have hgr1 := HR1.out.lo_le
  have hgr2 := HR2.out.lo_le
  clear HR1 HR2 HB1 HB2 HB3 HB4
  refine HRa.out.num (by simp) |>.mono ?_
  rw [ex_num]
  rintro e5 w5 ⟨rfl, hg5, hr5⟩
  have HR5 := Lib.hid hr5
  have HG5 := Lib.hid hg5
  clear hr5 hg5
  go_wp2_with fail
  refine HR5.out.err.mono ?_
  rintro e6 w6 ⟨rfl, rfl⟩
  go_wp2_with fail
  have HRc := Lib.hid (HRb.out.far HG5.out (fun r hr => by have := HRa.out.g_lt; have := HRa.out.lo_le; injection hr with hr; omega))
  refine (HRc.out.block (by simp)).mono ?_
  rw [ex_blk]
  rintro e7 w7 ⟨v7, rfl, ho7, hg7, hr7⟩
  obtain ⟨A7, c7, rfl, _, _, _⟩ := own_shape ho7
  have HR7 := Lib.hid hr7
  have HG7 := Lib.hid hg7
  clear ho7 hg7 hr7
  go_wp2_with fail
  refine HR7.out.err.mono ?_
  rintro e8 w8 ⟨rfl, rfl⟩
  go_wp2
  go_ret
  refine ⟨rfl, ?_⟩
  have s4 := HB.out.size
  have s5 := HG5.out.size
  exact (HB.out.grown HG5.out s4 (fun r hr => by injection hr with hr; omega)).grown HG7.out (by omega) (fun r hr => by injection hr with hr; omega)
end Go.Proofs.Ytbcalhhfcnbppaa
