/- The calls of package record that make records. No statement is proved here. -/
import Derived.Test.YtkglicidjdifkaaRA
namespace Go.Proofs.Ytkglicidjdifkaa
open Go.RowKit
set_option linter.unusedVariables false
set_option linter.unusedSimpArgs false

set_option maxHeartbeats 400000 in
theorem head_any (w : World) (k : UInt8) (A : Option Addr) (n c : Nat) (hn : n ≤ 1000000000) :
    Calls Try.prog 24 #[vR k A n c] w (GivesFresh w (hdL k n)) := by
  unfold vR
  go_enter Try.func24, Try.ntmps24
  go_wp2_with (with_reducible refine wpList_box_row rfl 31 _ rfl _ rfl ?_; intro w1 hh1 hz1 hg1; have c0 := (RAt.mk hh1).c0; have c1 := (RAt.mk hh1).c1; have d1 := (World.cell?_alloc_lt w1 (.cells #[.int .u8 (k.toNat : Int)] 5) ⟨w.heap.size, 1, none⟩ (by rw [hz1]; exact Nat.lt_succ_self _)).trans c1; have HB := Lib.hid (below_of_grownBy hg1); have HZ1 := Lib.hid hz1; clear hg1 hh1 hz1)
  have hs := src1 w1 k
  refine (number_any (w1.alloc (.cells #[.int .u8 (k.toNat : Int)] 5)) _ _ 1 1 [k] n hs (fun b hb => by simpa using hb) (by omega) (by omega)).mono ?_
  rintro e w2 ⟨v, rfl, ho, hb⟩
  have HO := Lib.hid ho
  have HB2 := Lib.hid hb
  clear ho hb hs
  go_wp2
  go_ret
  have h1 : Below w.heap.size w (w1.alloc (.cells #[.int .u8 (k.toNat : Int)] 5)) := HB.out.alloc HB.out.size _
  exact ⟨v, rfl, own_base HO.out (by have := h1.size; exact this), h1.trans (HB2.out.mono h1.size)⟩
end Go.Proofs.Ytkglicidjdifkaa
