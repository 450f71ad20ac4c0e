/- Equal bytes, equal records. No statement is proved here. -/
import Derived.Test.YtkglicidjdifkaaRE
namespace Go.Proofs.Ytkglicidjdifkaa
open Go.RowKit
set_option linter.unusedVariables false
set_option linter.unusedSimpArgs false
/-- A source as a string. -/
theorem conv_src {w : World} {S : Nat → Prop} {A : Option Addr} {n c : Nat} {l : List UInt8} (h : Src w S A n (bcs l)) : (convert 26 9 (.slice A n c)).run Try.prog w = .ok (.string ⟨l.toArray⟩) w := by
  have hl : l.length = n := by have := h.len; rw [bcs_len] at this; exact this
  subst hl
  rcases A with _ | ad
  · have h0 : l = [] := by
      rcases Nat.eq_zero_or_pos l.length with h0 | h0
      · exact List.eq_nil_of_length_eq_zero h0
      · obtain ⟨b, o, e, _⟩ := h.lies h0
        cases e
    subst h0
    have := run_convert_bytes_string (P := Try.prog) w 26 9 5 none 0 c Try.underlying26 Try.underlying5 Try.underlying9
    rw [show ([] : List UInt8).length = 0 from rfl, this]
    rfl
  · refine run_convert_bytes_back w 26 9 5 ad c l Try.underlying26 Try.underlying5 Try.underlying9 fun j hj => ?_
    obtain ⟨b, o, e, _, hc⟩ := h.lies (by omega)
    injection e with e
    subst e
    rw [show (⟨b, o, none⟩ : Addr).add j = ⟨b, o + j, none⟩ from by unfold Addr.add; split <;> simp_all, hc j hj, bcs_get, List.getElem?_eq_getElem hj]
    rfl

theorem equal_any (w : World) (S S2 : Nat → Prop) (A A2 : Option Addr) (n c n2 c2 : Nat) (l l2 : List UInt8) (hs : Src w S A n (bcs l)) (hs2 : Src w S2 A2 n2 (bcs l2)) :
    Calls Try.prog 26 #[.slice A n c, .slice A2 n2 c2] w fun e w' => e = .returned (.bool (l == l2)) ∧ w' = w := by
  have h1 := conv_src (c := c) hs
  have h2 := conv_src (c := c2) hs2
  clear hs hs2
  go_enter Try.func26, Try.ntmps26
  go_wp2
  go_ret
  exact ⟨rfl, rfl⟩
theorem u8_eq (k k2 : UInt8) : (((k.toNat : Int) == (k2.toNat : Int)) = (k == k2)) := by
  by_cases h : k = k2
  · subst h; simp
  · have : ¬ k.toNat = k2.toNat := fun e => h (UInt8.toNat_inj.1 e)
    have h2 : (k.toNat : Int) ≠ (k2.toNat : Int) := by omega
    rw [beq_eq_false_iff_ne.2 h2, beq_eq_false_iff_ne.2 h]
set_option maxHeartbeats 1000000 in
theorem record_any (w : World) (S S2 : Nat → Prop) (k k2 : UInt8) (A A2 : Option Addr) (n c n2 c2 : Nat) (l l2 : List UInt8) (hs : Src w S A n (bcs l)) (hs2 : Src w S2 A2 n2 (bcs l2)) (hS : ∀ b, S b → b < w.heap.size) (hS2 : ∀ b, S2 b → b < w.heap.size) :
    Calls Try.prog 12 #[vR k A n c, vR k2 A2 n2 c2] w fun e w' => e = .returned (.bool ((k == k2) && (l == l2))) ∧ Below w.heap.size w w' := by
  have HS := Lib.hid hs
  have HS2 := Lib.hid hs2
  have he := u8_eq k k2
  clear hs hs2
  unfold vR
  cases hk : (k == k2)
  · rw [hk] at he
    clear hk
    go_enter Try.func12, Try.ntmps12
    go_wp2_with (first | ((with_reducible show wpList _ _ _ (⟨some 2, .box 31 _, _, _, _, _⟩ :: _) _ _); refine wpList_box_row rfl 31 _ rfl _ rfl ?_; intro w1 hh1 hz1 hg1; have HR1 := Lib.hid (RAt.mk hh1); have HB1 := Lib.hid (below_of_grownBy hg1); have HZ1 := Lib.hid hz1; clear hg1 hh1 hz1) | ((with_reducible show wpList _ _ _ (⟨some 3, .box 31 _, _, _, _, _⟩ :: _) _ _); refine wpList_box_row rfl 31 _ rfl _ rfl ?_; intro w2 hh2 hz2 hg2; have c2a := (RAt.mk hh2).c0; have HB2 := Lib.hid (below_of_grownBy hg2); have c1a := (HR1.out.below HB2.out (by have := HZ1.out; omega)).c0; clear hg2 hh2 hz2))
    go_ret
    exact ⟨rfl, HB1.out.trans (HB2.out.mono HB1.out.size)⟩
  · rw [hk] at he
    clear hk
    go_enter Try.func12, Try.ntmps12
    go_wp2_with (first | ((with_reducible show wpList _ _ _ (⟨some 2, .box 31 _, _, _, _, _⟩ :: _) _ _); refine wpList_box_row rfl 31 _ rfl _ rfl ?_; intro w1 hh1 hz1 hg1; have HR1 := Lib.hid (RAt.mk hh1); have HB1 := Lib.hid (below_of_grownBy hg1); have HZ1 := Lib.hid hz1; clear hg1 hh1 hz1) | ((with_reducible show wpList _ _ _ (⟨some 3, .box 31 _, _, _, _, _⟩ :: _) _ _); refine wpList_box_row rfl 31 _ rfl _ rfl ?_; intro w2 hh2 hz2 hg2; have c2a := (RAt.mk hh2).c0; have c2b := (RAt.mk hh2).c1; have HB2 := Lib.hid (below_of_grownBy hg2); have HR1b := HR1.out.below HB2.out (by have := HZ1.out; omega); have c1a := HR1b.c0; have c1b := HR1b.c1; have hB := (HB1.out.trans (HB2.out.mono HB1.out.size)); have v1 := conv_src (c := c) (HS.out.below' hB hS); have v2 := conv_src (c := c2) (HS2.out.below' hB hS2); clear hg2 hh2 hz2 HR1b hB))
    go_ret
    exact ⟨rfl, HB1.out.trans (HB2.out.mono HB1.out.size)⟩
end Go.Proofs.Ytkglicidjdifkaa
