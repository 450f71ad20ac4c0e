/- The field's reader of eight bytes. No statement is proved here. -/
import Derived.Test.YtgdimnbdnepbgaaFB
namespace Go.Proofs.Ytgdimnbdnepbgaa
open Go.RowKit
set_option linter.unusedVariables false
set_option maxRecDepth 40000

def num8 (b0 b1 b2 b3 b4 b5 b6 b7 : Nat) : Nat := b0 + b1 * 256 + b2 * 65536 + b3 * 16777216 + b4 * 4294967296 + b5 * 1099511627776 + b6 * 281474976710656 + b7 * 72057594037927936

theorem or_step (x b k m : Nat) (hm : m = 2 ^ k) (hx : x < m) (hb : b < 256) (hk : m * 256 ≤ 18446744073709551616) :
    bits .or .u64 (x : Int) (IntKind.u64.wrap (IntKind.u64.wrap (b : Int) * (m : Int))) = ((x + b * m : Nat) : Int) := by
  have hbm : b * m ≤ 255 * m := Nat.mul_le_mul_right m (by omega)
  have e1 : IntKind.u64.wrap (b : Int) = (b : Int) := by rw [IntKind.wrap_u64]; omega
  have e2 : IntKind.u64.wrap ((b : Int) * (m : Int)) = ((b * m : Nat) : Int) := by
    rw [show (b : Int) * (m : Int) = ((b * m : Nat) : Int) from by simp, IntKind.wrap_u64]
    omega
  rw [e1, e2, u64_or_nat _ _ (by omega) (by omega)]
  congr 1
  have := or_add b x k (by omega)
  rw [← hm] at this
  rw [Nat.or_comm, this, Nat.add_comm]

theorem quad_num (b0 b1 b2 b3 b4 b5 b6 b7 : Nat) (h : b0 < 256 ∧ b1 < 256 ∧ b2 < 256 ∧ b3 < 256 ∧ b4 < 256 ∧ b5 < 256 ∧ b6 < 256 ∧ b7 < 256) :
    bits .or .u64 (bits .or .u64 (bits .or .u64 (bits .or .u64 (bits .or .u64 (bits .or .u64 (bits .or .u64 (IntKind.u64.wrap b0)
      (IntKind.u64.wrap (IntKind.u64.wrap b1 * 256))) (IntKind.u64.wrap (IntKind.u64.wrap b2 * 65536))) (IntKind.u64.wrap (IntKind.u64.wrap b3 * 16777216)))
      (IntKind.u64.wrap (IntKind.u64.wrap b4 * 4294967296))) (IntKind.u64.wrap (IntKind.u64.wrap b5 * 1099511627776))) (IntKind.u64.wrap (IntKind.u64.wrap b6 * 281474976710656)))
      (IntKind.u64.wrap (IntKind.u64.wrap b7 * 72057594037927936)) = ((num8 b0 b1 b2 b3 b4 b5 b6 b7 : Nat) : Int) := by
  obtain ⟨h0, h1, h2, h3, h4, h5, h6, h7⟩ := h
  have e0 : IntKind.u64.wrap (b0 : Int) = (b0 : Int) := by rw [IntKind.wrap_u64]; omega
  have s1 := or_step b0 b1 8 256 rfl (by omega) h1 (by omega)
  have s2 := or_step (b0 + b1 * 256) b2 16 65536 rfl (by omega) h2 (by omega)
  have s3 := or_step (b0 + b1 * 256 + b2 * 65536) b3 24 16777216 rfl (by omega) h3 (by omega)
  have s4 := or_step (b0 + b1 * 256 + b2 * 65536 + b3 * 16777216) b4 32 4294967296 rfl (by omega) h4 (by omega)
  have s5 := or_step (b0 + b1 * 256 + b2 * 65536 + b3 * 16777216 + b4 * 4294967296) b5 40 1099511627776 rfl (by omega) h5 (by omega)
  have s6 := or_step (b0 + b1 * 256 + b2 * 65536 + b3 * 16777216 + b4 * 4294967296 + b5 * 1099511627776) b6 48 281474976710656 rfl (by omega) h6 (by omega)
  have s7 := or_step (b0 + b1 * 256 + b2 * 65536 + b3 * 16777216 + b4 * 4294967296 + b5 * 1099511627776 + b6 * 281474976710656) b7 56 72057594037927936 rfl (by omega) h7 (by omega)
  rw [e0]
  refine Eq.trans ?_ s7
  refine congrArg (fun z => bits .or .u64 z _) (Eq.trans ?_ s6)
  refine congrArg (fun z => bits .or .u64 z _) (Eq.trans ?_ s5)
  refine congrArg (fun z => bits .or .u64 z _) (Eq.trans ?_ s4)
  refine congrArg (fun z => bits .or .u64 z _) (Eq.trans ?_ s3)
  refine congrArg (fun z => bits .or .u64 z _) (Eq.trans ?_ s2)
  exact congrArg (fun z => bits .or .u64 z _) s1

theorem num8_lt (b0 b1 b2 b3 b4 b5 b6 b7 : Nat) (h : b0 < 256 ∧ b1 < 256 ∧ b2 < 256 ∧ b3 < 256 ∧ b4 < 256 ∧ b5 < 256 ∧ b6 < 256 ∧ b7 < 256) : num8 b0 b1 b2 b3 b4 b5 b6 b7 < 18446744073709551616 := by
  unfold num8
  omega

set_option maxHeartbeats 800000 in
theorem quad_any (g o c b0 b1 b2 b3 b4 b5 b6 b7 : Nat) (w : World)
    (c0 : w.cell? ⟨g, o, none⟩ = some (.int .u8 b0)) (c1 : w.cell? ⟨g, o + 1, none⟩ = some (.int .u8 b1)) (c2 : w.cell? ⟨g, o + 2, none⟩ = some (.int .u8 b2))
    (c3 : w.cell? ⟨g, o + 3, none⟩ = some (.int .u8 b3)) (c4 : w.cell? ⟨g, o + 4, none⟩ = some (.int .u8 b4)) (c5 : w.cell? ⟨g, o + 5, none⟩ = some (.int .u8 b5))
    (c6 : w.cell? ⟨g, o + 6, none⟩ = some (.int .u8 b6)) (c7 : w.cell? ⟨g, o + 7, none⟩ = some (.int .u8 b7))
    (h0 : b0 < 256) (h1 : b1 < 256) (h2 : b2 < 256) (h3 : b3 < 256) (h4 : b4 < 256) (h5 : b5 < 256) (h6 : b6 < 256) (h7 : b7 < 256) :
    Calls Try.prog 105 #[.slice (some ⟨g, o, none⟩) 8 c] w (Gives (.int .u64 (num8 b0 b1 b2 b3 b4 b5 b6 b7)) w) := by
  have H := Lib.hid (And.intro h0 (And.intro h1 (And.intro h2 (And.intro h3 (And.intro h4 (And.intro h5 (And.intro h6 h7)))))))
  clear h0 h1 h2 h3 h4 h5 h6 h7
  go_enter Try.func105, Try.ntmps105
  go_wp2_with fail
  go_quiet (fail)
  go_wp2
  go_ret
  refine ⟨ret_int ?_, below_drewN' (Below.refl _ w) _⟩
  exact quad_num b0 b1 b2 b3 b4 b5 b6 b7 H.out
end Go.Proofs.Ytgdimnbdnepbgaa
