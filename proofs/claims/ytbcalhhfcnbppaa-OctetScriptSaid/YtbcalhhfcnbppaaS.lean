/- The document's own reader: a word. No statement is proved here. -/
import Derived.Test.YtbcalhhfcnbppaaK
namespace Go.Proofs.Ytbcalhhfcnbppaa
open Go.RowKit
set_option maxHeartbeats 2000000 in
theorem Rf.word {w : World} {lo hi g : Nat} {l : List UInt8} {k e : Nat} (h : Rf w lo hi g l k e) (hl : l.length ≤ 1000000000) (size : Int) :
    Calls Try.prog 29 #[.pointer (some ⟨g, 0, none⟩), .int .i64 size] w (RfGives w lo hi g l (.int .u64 (lev (takeS l k e (wsz size)).1)) (takeS l k e (wsz size)).2.1 (takeS l k e (wsz size)).2.2) := by
  have k1 := wsz_pos size
  have k8 := wsz_le size
  have hm : min (max size 1) 8 = (wsz size : Int) := by unfold wsz; omega
  have CT0 : ∀ s : Nat, s ≤ 8 → Calls Try.prog 31 #[.pointer (some ⟨g, 0, none⟩), .int .i64 s] w (RfBytes w lo hi g l (takeS l k e s).1 (takeS l k e s).2.1 (takeS l k e s).2.2) := fun s hs => by
    have h0 := h.takeN hl (s : Int) (by omega)
    rw [Int.toNat_natCast] at h0
    exact h0
  have CT := Lib.hid (CT0 (wsz size) k8)
  clear CT0
  have hlen : (takeS l k e (wsz size)).1.length ≤ 8 := by
    unfold takeS
    split
    · simp
    · split
      · simp
      · simp [List.length_take]; omega
  clear h
  generalize wsz size = s at *
  generalize takeS l k e s = r at *
  obtain ⟨out, k2, e2⟩ := r
  simp only at CT hlen
  rw [← hm] at CT
  clear hm
  go_enter Try.func29, Try.ntmps29
  go_wp2_with (go_at_call 31; refine CT.out.mono ?_; rintro e' w1 ⟨v, rfl, ho, hg1, hr1⟩; obtain ⟨A1, c1, rfl, hc1, hc2, hs1⟩ := own_shape ho; have HG := Lib.hid hg1; have HR := Lib.hid hr1; clear hg1 hr1 ho)
  go_loop [6, 7] (fun v i => ∃ j : Nat, j ≤ out.length ∧ i = .int .i64 ((j : Int) - 1) ∧ v = .int .u64 (lev (out.drop j))) (fun _ i => (intOf i + 1).toNat)
  case atStart => exact ⟨out.length, by omega, rfl, by simp [lev]⟩
  case round =>
    obtain ⟨j, hj, rfl, rfl⟩ := hrel
    by_cases hlt : 0 < j
    · obtain ⟨b, o, rfl, _, hcell⟩ := hs1.lies (by omega)
      obtain ⟨i, rfl⟩ : ∃ i, j = i + 1 := ⟨j - 1, by omega⟩
      have hil : i < out.length := by omega
      have hcj : w1.cell? ⟨b, o + i, none⟩ = some (.int .u8 (out[i].toNat : Int)) := by
        rw [hcell i hil, bcs_get, List.getElem?_eq_getElem hil]; rfl
      have HSv : Hid (lev (out.drop i) = out[i].toNat + 256 * lev (out.drop (i + 1))) := by
        rw [List.drop_eq_getElem_cons hil]
        exact rfl
      have hX : lev (out.drop (i + 1)) < 72057594037927936 := by
        have h1 := lev_lt (out.drop (i + 1))
        have h2 : (256 : Nat) ^ (out.drop (i + 1)).length ≤ 256 ^ 7 := Nat.pow_le_pow_right (by omega) (by rw [List.length_drop]; omega)
        omega
      clear hcell hs1
      generalize lev (out.drop (i + 1)) = X at *
      generalize out[i] = z at *
      have hzb : z.toNat < 256 := z.toNat_lt
      have hi1 : (((i + 1 : Nat) : Int) - 1) = (i : Int) := by omega
      rw [hi1]
      go_wp2
      go_round
      case rel => exact ⟨i, by omega, rfl, by rw [HSv.out]; go_num⟩
      case measure => simp [intOf]
    · obtain rfl : j = 0 := by omega
      go_wp2
      go_ret
      exact ⟨rfl, HG.out, HR.out⟩

end Go.Proofs.Ytbcalhhfcnbppaa
