/- The writing functions of package octet: what each call returns and leaves. No statement is proved here. -/
import Derived.Test.YtkglicidjdifkaaBs
import Derived.Test.YtkglicidjdifkaaOM
import Derived.Test.YtkglicidjdifkaaShelf

namespace Go.Proofs.Ytkglicidjdifkaa
open Go.RowKit

theorem wordSize_any (n : Int) (w : World) :
    Calls Try.prog 31 #[.int .i64 n] w fun e w' => e = .returned (.int .i64 (min (max n 1) 8)) ∧ w = w' := by
  by_cases h1 : n < 1
  · go_enter Try.func31, Try.ntmps31
    go_wp2
    go_ret
    exact ⟨ret_int (by omega), rfl⟩
  · by_cases h8 : 8 < n
    · go_enter Try.func31, Try.ntmps31
      go_wp2
      go_ret
      exact ⟨ret_int (by omega), rfl⟩
    · go_enter Try.func31, Try.ntmps31
      go_wp2
      go_ret
      exact ⟨ret_int (by omega), rfl⟩

theorem pow_mark : ∀ k : Fin 10, 1 ≤ k.val → (255 * 2 ^ (9 - k.val) % 256 : Int) = ((256 - 2 ^ (9 - k.val) : Nat) : Int) := by decide
theorem mark_any (k : Nat) (w : World) (h1 : 1 ≤ k) (h2 : k ≤ 9) :
    Calls Try.prog 48 #[.int .i64 k] w fun e w' => e = .returned (.int .u8 ((256 - 2 ^ (9 - k) : Nat) : Int)) ∧ w = w' := by
  go_enter Try.func48, Try.ntmps48
  go_wp2
  go_ret
  exact ⟨ret_int (pow_mark ⟨k, by omega⟩ h1), rfl⟩

theorem highest_any (n k : Nat) (w : World) (_hn : n < 18446744073709551616) (h1 : 1 ≤ k) (h2 : k ≤ 9) :
    Calls Try.prog 49 #[.int .u64 n, .int .i64 k] w fun e w' => e = .returned (.int .u8 ((n / 256 ^ (k - 1) % 256 : Nat) : Int)) ∧ w = w' := by
  go_enter Try.func49, Try.ntmps49
  go_wp2
  go_ret
  refine ⟨ret_int ?_, rfl⟩
  rw [show (256 : Nat) = 2 ^ 8 from rfl, ← Nat.pow_mul]
  simp

theorem numberSize_any (n : Nat) (w : World) (hn : n < 18446744073709551616) :
    Calls Try.prog 41 #[.int .u64 n] w fun e w' => e = .returned (.int .i64 (sz n)) ∧ w = w' := by
  have hb := Lib.bitLen_le n 64 (by omega) (by omega)
  have HS := Lib.hid (sz_bitLen n (by omega))
  go_enter Try.func41, Try.ntmps41
  go_wp2_with (go_at_call 50; refine (Try.bits_Len64 n _ (by omega) (by omega)).mono ?_; rintro e w' ⟨rfl, rfl⟩; rw [Int.toNat_natCast])
  all_goals
    go_ret
    refine ⟨ret_int ?_, rfl⟩
    have := HS.out
    omega

theorem info5 : (Try.prog.info? 5).map (fun i => (i.zero, i.size, i.bytes)) = some (some (.int .u8 0), 1, 1) := by kernel_rfl

/-- A post with an existential, closed to the walk. -/
def GivesFresh (w : World) (l : List UInt8) (e : Ending) (w' : World) : Prop := ∃ v, e = .returned v ∧ Fresh 5 w w' v l

set_option maxHeartbeats 400000 in
theorem withRoom_any (w : World) (S : Nat → Prop) (A : Option Addr) (n c : Nat) (l : List UInt8) (m : Nat) (hs : Src w S A n (bcs l)) (hS : ∀ b, S b → b < w.heap.size) (hn : n ≤ 1099511627776) (hm : m ≤ 1099511627776) :
    Calls Try.prog 32 #[.slice A n c, .int .i64 m] w (GivesFresh w l) := by
  obtain ⟨i0, hi, hz0, hz1, hz2⟩ := info_parts info5
  have hl : n = l.length := by rw [← hs.len, bcs_len]
  have HL := Lib.hid hl
  clear hl
  go_enter Try.func32, Try.ntmps32
  go_wp2_with (at_make; refine wpList_make_own _ rfl _ _ 26 rfl w.heap.size 5 i0 (.int .u8 0) 1 Try.underlying26 hi hz0 hz1 .i64 .i64 _ (n + m) rfl rfl (by omega) (by rw [hz2]; omega) (by unfold maxLen; omega) (Nat.le_refl _) ?_)
  intro w1 hown hg
  have hs1 := hs.grown hg (fun b hb => ⟨hS b hb, by simp⟩) (fun _ hb => hb)
  have hsz := hg.size
  go_wp2_with (at_builtin; refine wpList_app _ rfl _ _ 26 rfl w.heap.size 5 i0 (.int .u8 0) 1 Try.underlying26 hi hz0 hz1 hz2 rfl _ _ _ rfl hown _ _ _ _ _ rfl hs1 (bcs_one _) (by unfold maxLen; omega) (by omega) hsz ?_)
  intro v2 w2 hown2 hg2 _
  go_wp2
  go_ret
  refine ⟨v2, rfl, ?_, ?_⟩
  · have := HL.out
    rw [← this]
    simpa using hown2
  · exact ((Below.refl _ w).grown hg (Nat.le_refl _) (by simp)).grown hg2 hsz (by simp [Value.ownBlock])
end Go.Proofs.Ytkglicidjdifkaa
