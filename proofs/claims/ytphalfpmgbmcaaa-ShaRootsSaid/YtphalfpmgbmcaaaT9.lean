/- The law of roots, walked. No statement is proved here. -/
import Derived.Test.YtphalfpmgbmcaaaT8b
namespace Go.Proofs.Ytphalfpmgbmcaaa
open Go.RowKit
set_option linter.unusedVariables false

theorem d6 {n s sq d : Nat} (hn : n < 4294967296) (h1 : (s : Int) * (s : Int) = (sq : Int)) (h2 : (n : Int) - (sq : Int) = (d : Int)) : IntKind.u64.wrap ((n : Int) - IntKind.u64.wrap ((s : Int) * (s : Int))) = (d : Int) := by
  rw [h1, IntKind.wrap_u64, IntKind.wrap_u64]
  omega
set_option maxRecDepth 100000 in
set_option maxHeartbeats 4000000 in
theorem roots_walk (n : Nat) (hn : n < 4294967296) (w : World) : Calls Try.prog 6 #[.int .u32 n] w (Gives (.bool true) w) := by
  go_enter Try.func6, Try.ntmps6
  go_wp2_with fail
  refine (lives_any w).mono ?_
  rintro e1 w1 ⟨rfl, hb1⟩
  have B1 := Lib.hid hb1
  clear hb1
  go_wp2_with fail
  go_loopw [3, 4] (fun z _ wr => ∃ s : Nat, s ≤ 65535 ∧ s * s ≤ n ∧ z = .int .u64 s ∧ wr = w1) (fun z _ _ => 65536 - (intOf z).toNat)
  case atStart => exact ⟨0, by omega, by omega, rfl, rfl⟩
  case round =>
    obtain ⟨s, hs, hsq, rfl, rfl⟩ := hrel
    have HSQ := Lib.hid hsq
    clear hsq
    by_cases hgo : s < 65535 ∧ (s + 1) * (s + 1) ≤ n
    · obtain ⟨hlt, hle⟩ := hgo
      have HLE := Lib.hid hle
      clear hle
      have hp : ((s : Int) + 1) * ((s : Int) + 1) = (((s + 1) * (s + 1) : Nat) : Int) := by rw [Int.natCast_mul, Int.natCast_add]; rfl
      have HS1 := Lib.hid (show (s + 1) * (s + 1) ≤ n from HLE.out)
      generalize hpp : (s + 1) * (s + 1) = p at hp HLE
      have hple : (p : Int) ≤ (n : Int) := by have := HLE.out; omega
      have hsl : (s : Int) < 65535 := by omega
      clear hpp HLE HSQ
      go_wp2_with fail
      clear hp
      have HPL := Lib.hid hple
      clear hple
      go_loopw [4] (fun z wv => ∃ t : Nat, 1 ≤ t ∧ s + t ≤ 65535 ∧ (s + t) * (s + t) ≤ n ∧ z = .int .u64 t ∧ wv = wr) (fun z _ => 65536 - (intOf z).toNat)
      case atStart => exact ⟨1, by omega, by omega, HS1.out, rfl, rfl⟩
      case round =>
        obtain ⟨t, ht1, hst, htq, rfl, rfl⟩ := hrel
        have HTQ := Lib.hid htq
        clear htq
        have hp : ((s : Int) + 2 * (t : Int)) * ((s : Int) + 2 * (t : Int)) = (((s + 2 * t) * (s + 2 * t) : Nat) : Int) := by rw [Int.natCast_mul, Int.natCast_add, Int.natCast_mul]; rfl
        by_cases hgo : (s + 2 * t) * (s + 2 * t) ≤ n
        · have HGO := Lib.hid hgo
          have hb : s + 2 * t ≤ 65535 := sq_small hgo hn
          clear hgo
          have HG2 : Hid ((s + 2 * t) * (s + 2 * t) ≤ n) := HGO.out
          generalize (s + 2 * t) * (s + 2 * t) = p at hp HGO
          have hple : (p : Int) ≤ (n : Int) := by have := HGO.out; omega
          go_wp2_with fail
          go_roundw
          case rel => exact ⟨2 * t, by omega, by omega, HG2.out, by go_num, trivial⟩
          case measure => simp [intOf]; omega
        · have HGO := Lib.hid hgo
          clear hgo
          have hpb := sq_mono (show s + 2 * t ≤ 131070 by omega)
          generalize (s + 2 * t) * (s + 2 * t) = p at hp HGO hpb
          have hpb2 : (p : Int) ≤ 17179344900 := by omega
          have hd : decide (p ≤ n) = false := by have := HGO.out; simp; omega
          clear hpb HS1 HGO
          go_wp2_with fail
          go_roundw
          case rel =>
            first | exact ⟨s + t, hst, HTQ.out, by go_num, trivial⟩ | exact ⟨s + t, hst, HTQ.out, by go_num, rfl⟩ | ((repeat apply Exists.intro); exact ⟨⟨s + t, hst, HTQ.out, by go_num, rfl⟩, rfl⟩)
          case measure => simp [intOf]; omega
    · have HNX : Hid (n < (s + 1) * (s + 1)) := sq_next hs hn hgo
      have HSQ2 : Hid (s * s ≤ n) := HSQ.out
      clear HSQ hgo
      obtain ⟨r, CR, HR⟩ : ∃ r : Nat, Hid (∀ w, Calls Try.prog 13 #[.int .u64 n] w (Gives (.int .u64 (r : Int)) w)) ∧ Hid (RootFacts n s r) := ⟨rootN (n % 4294967296) 2 % X64, root_any n, root_facts n s hn HSQ2.out HNX.out⟩
      obtain ⟨⟨q, d, high, low, top, mid, m1, c1, T, r2, ov, x1, c, x2, e, oe, y1, f, y2, g, Z⟩, HV⟩ := roots_vals n s r hs HR.out
      have HSQI := Lib.hid (show (s : Int) * (s : Int) = ((s * s : Nat) : Int) from (Int.natCast_mul _ _).symm)
      have HND := Lib.hid (show (n : Int) - ((s * s : Nat) : Int) = (d : Int) from by have h := HV.out.d.out; have := HSQ2.out; dsimp only at h; omega)
      generalize s * s = sq at HSQI HND
      have k30a := Lib.hid (show ∀ w, Calls Try.prog 30 #[.int .u64 r, .int .u64 r] w fun e w' => e = .returned (.tuple #[.int .u64 high, .int .u64 low]) ∧ w' = w from HV.out.c30a.out)
      have k30b := Lib.hid (show ∀ w, Calls Try.prog 30 #[.int .u64 q, .int .u64 r] w fun e w' => e = .returned (.tuple #[.int .u64 top, .int .u64 mid]) ∧ w' = w from HV.out.c30b.out)
      have HTAIL : Hid (∀ wr : World, Below w.heap.size w wr → True) := fun _ _ => trivial
      have HLO : Hid ((decide (d < T) = false ∧ ((T : Int) == (d : Int)) = false) ∨ (decide (d < T) = false ∧ ((T : Int) == (d : Int)) = true ∧ ((m1 : Int) != 0) = false ∧ ((low : Int) != 0) = false)) := by
        rcases HV.out.lo with h | ⟨h1, h2, h3⟩
        · have h : T < d := h
          exact .inl ⟨by simp; omega, by simp; omega⟩
        · have h1 : T = d := h1
          have h2 : m1 = 0 := h2
          have h3 : low = 0 := h3
          exact .inr ⟨by simp; omega, by simp; omega, by simp; omega, by simp; omega⟩
      have HHI : Hid (decide (d < Z) = true ∨ (decide (d < Z) = false ∧ ((Z : Int) == (d : Int)) = true ∧ ((x2 : Int) != 0) = true) ∨ (decide (d < Z) = false ∧ ((Z : Int) == (d : Int)) = true ∧ ((x2 : Int) != 0) = false ∧ ((y2 : Int) != 0) = true)) := by
        rcases HV.out.hi with h | ⟨h1, h2⟩
        · have h : d < Z := h
          exact .inl (by simp; omega)
        · have h1 : Z = d := h1
          by_cases hx : x2 = 0
          · have hy : y2 ≠ 0 := by rcases h2 with h2 | h2; exact absurd hx h2; exact h2
            exact .inr (.inr ⟨by simp; omega, by simp; omega, by simp; omega, by simp; omega⟩)
          · exact .inr (.inl ⟨by simp; omega, by simp; omega, by simp; omega⟩)
      have HEND : Hid (∀ w2 : World, Below wr.heap.size wr w2 → Below w.heap.size w w2) := fun w2 hb => B1.out.trans (hb.mono B1.out.size)
      have FIN : ∀ w2 : World, Below wr.heap.size wr w2 → True := fun _ _ => trivial
      clear HTAIL FIN
      by_cases h65 : s < 65535
      · have hp : ((s : Int) + 1) * ((s : Int) + 1) = (((s + 1) * (s + 1) : Nat) : Int) := by rw [Int.natCast_mul, Int.natCast_add]; rfl
        have hpb := sq_mono (show s + 1 ≤ 65536 by omega)
        generalize hpp : (s + 1) * (s + 1) = p at hp hpb
        have hpb2 : (p : Int) ≤ 4294967296 := by omega
        have hd : decide (p ≤ n) = false := by have := HNX.out; rw [hpp] at this; simp; omega
        clear hpb hpp
        have hsl : (s : Int) < 65535 := by omega
        go_wp2_with (go_at_call 13; refine (CR.out _).mono ?_; rintro e2 w2 ⟨rfl, hb2⟩; have BE := Lib.hid (HEND.out w2 hb2); clear hb2 hp hd hpb2 CR)
        rw [d6 hn HSQI.out HND.out]
        have hq : 2 * (s : Int) = (q : Int) := HV.out.q.out
        refine (k30a.out _).mono ?_
        rintro e3 w3 ⟨rfl, rfl⟩
        go_wp2_with fail
        refine (k30b.out _).mono ?_
        rintro e4 w4 ⟨rfl, rfl⟩
        have a1 : ∀ W, (callFunc 31 #[.int .u64 mid, .int .u64 high, .int .u64 0]).run Try.prog W = .ok (.value (.tuple #[.int .u64 m1, .int .u64 c1])) W := HV.out.a1.out
        have a2 : ∀ W, (callFunc 31 #[.int .u64 low, .int .u64 r2, .int .u64 0]).run Try.prog W = .ok (.value (.tuple #[.int .u64 x1, .int .u64 c])) W := HV.out.a2.out
        have a3 : ∀ W, (callFunc 31 #[.int .u64 x1, .int .u64 1, .int .u64 0]).run Try.prog W = .ok (.value (.tuple #[.int .u64 x2, .int .u64 e])) W := HV.out.a3.out
        have a4 : ∀ W, (callFunc 31 #[.int .u64 m1, .int .u64 q, .int .u64 c]).run Try.prog W = .ok (.value (.tuple #[.int .u64 y1, .int .u64 f])) W := HV.out.a4.out
        have a5 : ∀ W, (callFunc 31 #[.int .u64 y1, .int .u64 oe, .int .u64 0]).run Try.prog W = .ok (.value (.tuple #[.int .u64 y2, .int .u64 g])) W := HV.out.a5.out
        have hT : (top : Int) + (c1 : Int) = (T : Int) := HV.out.T.out
        have hr2 : IntKind.u64.wrap (2 * (r : Int)) = (r2 : Int) := HV.out.r2.out
        have hov : (r : Int) / 9223372036854775808 = (ov : Int) := HV.out.ov.out
        have hoe : (ov : Int) + (e : Int) = (oe : Int) := HV.out.oe.out
        have hZ : (T : Int) + (f : Int) + (g : Int) = (Z : Int) := HV.out.Z.out
        have s1 : top ≤ 131070 := HV.out.small.1
        have s2 : c1 ≤ 1 := HV.out.small.2.1
        have s3 : ov ≤ 1 := HV.out.small.2.2.1
        have s4 : e ≤ 1 := HV.out.small.2.2.2.1
        have s5 : f ≤ 1 := HV.out.small.2.2.2.2.1
        have s6 : g ≤ 1 := HV.out.small.2.2.2.2.2.1
        have s7 : T ≤ 131072 := HV.out.small.2.2.2.2.2.2
        clear HV HSQI HND k30a k30b HSQ2 HNX HEND
        rcases HLO.out with ⟨l1, l2⟩ | ⟨l1, l2, l3, l4⟩ <;> rcases HHI.out with h1 | ⟨h1, h2, h3⟩ | ⟨h1, h2, h3, h4⟩
        all_goals
          clear HLO HHI
          go_wp2
          go_ret
          exact ⟨rfl, BE.out⟩
      · have hsd : decide ((s : Int) < 65535) = false := by simp; omega
        go_wp2_with (go_at_call 13; refine (CR.out _).mono ?_; rintro e2 w2 ⟨rfl, hb2⟩; have BE := Lib.hid (HEND.out w2 hb2); clear hb2 CR)
        rw [d6 hn HSQI.out HND.out]
        have hq : 2 * (s : Int) = (q : Int) := HV.out.q.out
        refine (k30a.out _).mono ?_
        rintro e3 w3 ⟨rfl, rfl⟩
        go_wp2_with fail
        refine (k30b.out _).mono ?_
        rintro e4 w4 ⟨rfl, rfl⟩
        have a1 : ∀ W, (callFunc 31 #[.int .u64 mid, .int .u64 high, .int .u64 0]).run Try.prog W = .ok (.value (.tuple #[.int .u64 m1, .int .u64 c1])) W := HV.out.a1.out
        have a2 : ∀ W, (callFunc 31 #[.int .u64 low, .int .u64 r2, .int .u64 0]).run Try.prog W = .ok (.value (.tuple #[.int .u64 x1, .int .u64 c])) W := HV.out.a2.out
        have a3 : ∀ W, (callFunc 31 #[.int .u64 x1, .int .u64 1, .int .u64 0]).run Try.prog W = .ok (.value (.tuple #[.int .u64 x2, .int .u64 e])) W := HV.out.a3.out
        have a4 : ∀ W, (callFunc 31 #[.int .u64 m1, .int .u64 q, .int .u64 c]).run Try.prog W = .ok (.value (.tuple #[.int .u64 y1, .int .u64 f])) W := HV.out.a4.out
        have a5 : ∀ W, (callFunc 31 #[.int .u64 y1, .int .u64 oe, .int .u64 0]).run Try.prog W = .ok (.value (.tuple #[.int .u64 y2, .int .u64 g])) W := HV.out.a5.out
        have hT : (top : Int) + (c1 : Int) = (T : Int) := HV.out.T.out
        have hr2 : IntKind.u64.wrap (2 * (r : Int)) = (r2 : Int) := HV.out.r2.out
        have hov : (r : Int) / 9223372036854775808 = (ov : Int) := HV.out.ov.out
        have hoe : (ov : Int) + (e : Int) = (oe : Int) := HV.out.oe.out
        have hZ : (T : Int) + (f : Int) + (g : Int) = (Z : Int) := HV.out.Z.out
        have s1 : top ≤ 131070 := HV.out.small.1
        have s2 : c1 ≤ 1 := HV.out.small.2.1
        have s3 : ov ≤ 1 := HV.out.small.2.2.1
        have s4 : e ≤ 1 := HV.out.small.2.2.2.1
        have s5 : f ≤ 1 := HV.out.small.2.2.2.2.1
        have s6 : g ≤ 1 := HV.out.small.2.2.2.2.2.1
        have s7 : T ≤ 131072 := HV.out.small.2.2.2.2.2.2
        clear HV HSQI HND k30a k30b HSQ2 HNX HEND
        rcases HLO.out with ⟨l1, l2⟩ | ⟨l1, l2, l3, l4⟩ <;> rcases HHI.out with h1 | ⟨h1, h2, h3⟩ | ⟨h1, h2, h3, h4⟩
        all_goals
          clear HLO HHI
          go_wp2
          go_ret
          exact ⟨rfl, BE.out⟩
end Go.Proofs.Ytphalfpmgbmcaaa
