/- A record without its chain, read. No statement is proved here. -/
import Derived.Test.YtkglicidjdifkaaRI
namespace Go.Proofs.Ytkglicidjdifkaa
open Go.RowKit
set_option linter.unusedVariables false
set_option linter.unusedSimpArgs false
set_option maxHeartbeats 400000 in
theorem bclone_any (w : World) (S : Nat → Prop) (A : Option Addr) (n c : Nat) (l : List UInt8) (hs : Src w S A n (bcs l)) (hS : ∀ b, S b → b < w.heap.size) (hn : n ≤ 1000000000) :
    Calls Try.prog 36 #[.slice A n c] w (GivesFresh w l) := by
  obtain ⟨i0, hi, hz0, hz1, hz2⟩ := info_parts info5
  rcases A with _ | ad
  · have h0 : n = 0 := by
      rcases Nat.eq_zero_or_pos n with h | h
      · exact h
      · obtain ⟨b, o, e, _⟩ := hs.lies h
        cases e
    subst h0
    have hl := src_len hs
    have hl0 : l = [] := List.eq_nil_of_length_eq_zero hl
    subst hl0
    clear hs hl
    have hq := fun w => Lib.run_eql_slice_nil (P := Try.prog) w 26 5 none 0 c 0 0 Try.underlying26
    go_enter Try.func36, Try.ntmps36
    go_wp2
    go_ret
    exact ⟨_, rfl, World.ownsRow_nil w _ _ _, Below.refl _ _⟩
  · have ho := own_empty w 5
    have hs1 := hs.alloc hS (.cells #[] 5)
    have hq := fun w => Lib.run_eql_slice_nil (P := Try.prog) w 26 5 (some ad) n c 0 0 Try.underlying26
    go_enter Try.func36, Try.ntmps36
    go_wp2_with (at_builtin; refine wpList_app _ rfl _ _ 26 rfl w.heap.size 5 i0 (.int .u8 0) 1 Try.underlying26 hi hz0 hz1 hz2 rfl _ _ _ rfl ho _ _ _ _ _ rfl hs1 (bcs_one _) (by unfold maxLen; omega) (by omega) (by simp) ?_)
    intro v2 w2 ho2 hg2 _
    go_wp2
    go_ret
    exact ⟨v2, rfl, own_as ho2 l (by simp), ((Below.refl _ w).alloc (Nat.le_refl _) _).grown hg2 (by simp) (by simp [Value.ownBlock])⟩


/-- The record that is none. -/
def zR : Value := .agg #[.int .u8 0, .slice none 0 0]
theorem zero31 (w : World) : (zeroValue 31).run Try.prog w = .ok zR w := by kernel_rfl
theorem build31z (w : World) : (Instr.build 31 #[]).run Try.prog w = .ok zR w := by kernel_rfl
theorem build31 (w : World) (x1 : Int) (A : Option Addr) (n c : Nat) : (Instr.build 31 #[(0, .int .u8 x1), (1, .slice A n c)]).run Try.prog w = .ok (.agg #[.int .u8 x1, .slice A n c]) w := by go_simp
/-- What unbound gives. -/
def UGives (w : World) (b : List UInt8) (e : Ending) (w' : World) : Prop :=
  (unbE b = 0 → ∃ A c, e = .returned (.tuple #[vR (readK b) A (readD b).length c, .int .i64 0]) ∧ Src w' (fun g => w.heap.size ≤ g ∧ g < w'.heap.size) A (readD b).length (bcs (readD b)) ∧ (readD b).length ≤ c ∧ c ≤ maxLen) ∧
  (unbE b ≠ 0 → e = .returned (.tuple #[zR, .int .i64 (unbE b : Int)])) ∧ Below w.heap.size w w'

set_option maxRecDepth 100000 in
set_option maxHeartbeats 2000000 in
theorem unbound_any (w : World) (S : Nat → Prop) (A : Option Addr) (n c : Nat) (b : List UInt8) (hs : Src w S A n (bcs b)) (hS : ∀ b, S b → b < w.heap.size) (hc : n ≤ c ∧ c ≤ maxLen) (hn : n ≤ 1000000000) :
    Calls Try.prog 25 #[.slice A n c] w (UGives w b) := by
  have hbl := src_len hs
  have CH := Lib.hid (fun (W : World) (h : Src W S A n (bcs b)) (h2 : ∀ b, S b → b < W.heap.size) => readHead_any W S A n c b h h2 hc hn)
  have HSD := Lib.hid hs
  obtain ⟨hc1, hc2⟩ := hc
  clear hs
  have hkl := headS_fst_lt b
  go_enter Try.func25, Try.ntmps25
  go_wp2_with (with_reducible refine wpList_alloc_row rfl 31 rfl zR zero31 ?_; intro w1 hh1 hz1 hg1; have HO := Lib.hid hh1; have HB1 := Lib.hid (below_of_grownBy hg1); have HZ1 := Lib.hid hz1; clear hg1 hh1 hz1)
  refine (CH.out w1 (HSD.out.below' HB1.out hS) (fun b hb => by have := hS b hb; have := HZ1.out; omega)).mono ?_
  rintro e2 w2 ⟨rfl, hb2⟩
  have HO2 := Lib.hid ((hb2.block w.heap.size (by have := HZ1.out; omega)).trans HO.out)
  have HB2 := Lib.hid (HB1.out.trans (hb2.mono HB1.out.size))
  have HL2 := Lib.hid (show w.heap.size < w2.heap.size from by have := HZ1.out; have := hb2.size; omega)
  clear hb2 HO HB1
  by_cases he : unbE b = 0
  · obtain ⟨u1, u2, u3, u4, u5⟩ := unb_ok he
    have HE := Lib.hid he
    rw [u4]
    have HU5 := Lib.hid u5
    have hnn : (readD b).length ≤ 8192 := by simp [okR] at u1; exact u1.2
    have hsz := sz_le (readD b).length
    have hszn : sizeR (readD b).length = 1 + sz (readD b).length + (readD b).length + 8 := rfl
    rw [hszn, hbl] at u3
    have hfin : (readD b).length = (readD b).length := rfl
    generalize hD : (readD b).length = dn at *
    generalize hat : 1 + sz dn = at_ at *
    generalize hK : readK b = kk at *
    simp only
    have hkk := kk.toNat_lt
    clear u1 u2 u4 u5 hkl he hszn hfin
    have hlt : ¬ ((n : Int) - (at_ : Int) < (dn : Int) + 8) := by omega
    have hsd := HSD.out.below' HB2.out hS
    have hs3 : Src w2 S (A.map (·.add at_)) dn (bcs (readD b)) := by
      have h1 := hsd.drop_ (c := c) at_ (by omega) hc1
      rw [if_neg (by omega), ← bcs_drop] at h1
      have h2 := h1.take_ dn (by omega)
      rw [← bcs_takeD, ← HU5.out] at h2
      exact h2
    clear hsd
    have HS3 := Lib.hid hs3
    clear hs3
    go_wp2_with fail
    refine (bclone_any w2 S _ dn (c - at_) (readD b) HS3.out (fun b hb => by have := hS b hb; have := HL2.out; omega) (by omega)).mono ?_
    rintro e3 w3 ⟨v3, rfl, hf3⟩
    obtain ⟨A3, c3, rfl, hc3, hm3, hs3⟩ := hf3.shape
    have HS4 := Lib.hid hs3
    have HM4 := Lib.hid (And.intro hc3 hm3)
    have HB3 := Lib.hid (HB2.out.trans (hf3.2.mono HB2.out.size))
    have HO3 := Lib.hid ((hf3.2.block w.heap.size HL2.out).trans HO2.out)
    have HL3 := Lib.hid (show w2.heap.size ≤ w3.heap.size from hf3.2.size)
    clear hs3 hc3 hm3 hf3 HS3
    have hq := fun W => build31 W (kk.toNat : Int) A3 (readD b).length c3
    have HDD : (∀ P : Nat → Prop, P dn → P (readD b).length) := fun P h => by rw [hD]; exact h
    rw [hD] at hq HS4 HM4
    rw [hD]
    go_wp2_with ((with_reducible show wpList _ _ _ (⟨none, .store 31 (.tmp 2) (.tmp 35), _, _, _, _⟩ :: _) _ _); refine wpList_store_all rfl 31 (.tmp 2) (.tmp 35) rfl w.heap.size rfl #[.int .u8 (kk.toNat : Int), .slice A3 dn c3] rfl 31 _ HO3.out (by rw [size31]; rfl) rfl (by intro u hu; simp at hu; rcases hu with rfl | rfl <;> rfl) ?_; intro w4 hh4 hg4 hz4; have H4 := Lib.hid hh4; have G4 := Lib.hid hg4; have Z4 := Lib.hid hz4; clear hh4 hg4 hz4)
    refine bodyPost_ret (results_cell_slot rfl _ _ w.heap.size 31 #[.int .u8 (kk.toNat : Int), .slice A3 dn c3] (0, 0) _ _ rfl H4.out rfl Try.underlying31 rfl (by rw [size31]; rfl)) rfl ?_
    refine ⟨fun _ => ⟨A3, c3, ?_, ?_, ?_, HM4.out.2⟩, fun h => absurd HE.out h, HB3.out.grown G4.out HB3.out.size (fun r e => by injection e with e; subst e; exact Nat.le_refl _)⟩
    · rw [hK]; exact HDD (fun x => Ending.returned _ = Ending.returned (.tuple #[vR kk A3 x c3, .int .i64 0])) rfl
    · refine HDD (fun x => Src _ _ A3 x _) ?_
      refine Src.grown HS4.out G4.out (fun b hb => ⟨hb.2, fun e => by injection e with e; have := hb.1; have := HL2.out; omega⟩) (fun b hb => ⟨by have := hb.1; have := HL2.out; omega, by have := Z4.out; have := hb.2; omega⟩)
    · exact HDD (fun x => x ≤ c3) HM4.out.1
  · have hee : unbE b = if (headS b).2.2.2 ≠ 0 then (headS b).2.2.2 else if b.length - (headS b).2.2.1 < (headS b).2.1 + 8 then 5 else 0 := rfl
    have HE := Lib.hid he
    have hok : (headS b).2.2.2 = 0 → (headS b).2.2.1 ≤ b.length ∧ (headS b).2.1 ≤ 8192 ∧ (headS b).2.2.1 ≤ 10 := fun h => by
      obtain ⟨k, _, _, h3, h4, _, h6⟩ := headS_ok (b := b) (kn := (headS b).1) (n := (headS b).2.1) (at_ := (headS b).2.2.1) (by rw [← h])
      exact ⟨h6, h3, by have := sz_le (headS b).2.1; omega⟩
    generalize headS b = q at *
    obtain ⟨kn, dn, at_, er⟩ := q
    simp only at hee hok hkl ⊢
    have hz := build31z
    by_cases h1 : er ≠ 0
    · rw [if_pos h1] at hee
      have h1' : (((er : Int) == 0) = false) := by simp; omega
      have HEE := Lib.hid hee
      clear hee hok he
      go_wp2_with ((with_reducible show wpList _ _ _ (⟨none, .store 31 (.tmp 2) (.tmp 17), _, _, _, _⟩ :: _) _ _); refine wpList_store_all rfl 31 (.tmp 2) (.tmp 17) rfl w.heap.size rfl #[.int .u8 0, .slice none 0 0] rfl 31 _ HO2.out (by rw [size31]; rfl) rfl (by intro u hu; simp at hu; rcases hu with rfl | rfl <;> rfl) ?_; intro w4 hh4 hg4 hz4; have H4 := Lib.hid hh4; have G4 := Lib.hid hg4; have Z4 := Lib.hid hz4; clear hh4 hg4 hz4)
      refine bodyPost_ret (results_cell_slot rfl _ _ w.heap.size 31 #[.int .u8 0, .slice none 0 0] (0, 0) _ _ rfl H4.out rfl Try.underlying31 rfl (by rw [size31]; rfl)) rfl ?_
      refine ⟨fun h => absurd h HE.out, fun _ => ?_, HB2.out.grown G4.out HB2.out.size (fun r e => by injection e with e; subst e; exact Nat.le_refl _)⟩
      rw [HEE.out]
      rfl
    · rw [if_neg h1] at hee
      have h1' : er = 0 := by omega
      subst h1'
      obtain ⟨ha, hb, hat⟩ := hok rfl
      by_cases h2 : b.length - at_ < dn + 8
      · rw [if_pos h2] at hee
        have h2' : (n : Int) - (at_ : Int) < (dn : Int) + 8 := by omega
        have HEE := Lib.hid hee
        clear hee hok he h1 h2
        go_wp2_with ((with_reducible show wpList _ _ _ (⟨none, .store 31 (.tmp 2) (.tmp 26), _, _, _, _⟩ :: _) _ _); refine wpList_store_all rfl 31 (.tmp 2) (.tmp 26) rfl w.heap.size rfl #[.int .u8 0, .slice none 0 0] rfl 31 _ HO2.out (by rw [size31]; rfl) rfl (by intro u hu; simp at hu; rcases hu with rfl | rfl <;> rfl) ?_; intro w4 hh4 hg4 hz4; have H4 := Lib.hid hh4; have G4 := Lib.hid hg4; have Z4 := Lib.hid hz4; clear hh4 hg4 hz4)
        refine bodyPost_ret (results_cell_slot rfl _ _ w.heap.size 31 #[.int .u8 0, .slice none 0 0] (0, 0) _ _ rfl H4.out rfl Try.underlying31 rfl (by rw [size31]; rfl)) rfl ?_
        refine ⟨fun h => absurd h HE.out, fun _ => ?_, HB2.out.grown G4.out HB2.out.size (fun r e => by injection e with e; subst e; exact Nat.le_refl _)⟩
        rw [HEE.out]
        rfl
      · rw [if_neg h2] at hee
        exact absurd hee he
end Go.Proofs.Ytkglicidjdifkaa
