/- It is proved that ShaPads returns true for any two byte strings: what is padded begins with its bytes and ends with their number of bits, and different bytes are padded differently. Conditions: none. -/
import Derived.Test.YtphalfpmgbmcaaaRows
import Derived.Test.YtphalfpmgbmcaaaS
import Derived.Test.YtphalfpmgbmcaaaI
import Derived.ProofKit
import Derived.StillTailTactics
import Derived.OpenShut
import Derived.ChangeOld
namespace Go.Proofs.Ytphalfpmgbmcaaa.shaPads
open Go.ChangeShapes Go.WideShapes Go.ChangeAt Go.RowKit
set_option linter.unusedVariables false

theorem own : ownKnob Try.prog.godebug = none := by kernel_rfl
theorem laidOut : laidOutB Try.prog = true := by kernel_rfl

set_option maxRecDepth 100000 in
set_option maxHeartbeats 1000000 in
theorem walkB (w : World) (A0 A1' : Option Addr) (n0 c0 n1 c1' : Nat) (la lb : List UInt8) (hsa : Src w (· < w.heap.size) A0 n0 (bcs la)) (hsb : Src w (· < w.heap.size) A1' n1 (bcs lb))
    (hn0 : n0 ≤ 2000) (hn1 : n1 ≤ 2000) :
    Calls Try.prog 8 #[.slice A0 n0 c0, .slice A1' n1 c1'] w fun e w' => e = .returned (.bool true) ∧ Below w.heap.size w w' := by
  have hla := src_len hsa
  have hlb := src_len hsb
  have HSA := Lib.hid hsa
  have HSB := Lib.hid hsb
  clear hsa hsb
  subst hla
  subst hlb
  have hda : decide ((2000 : Int) < (la.length : Int)) = false := by simp; omega
  have hdb : decide ((2000 : Int) < (lb.length : Int)) = false := by simp; omega
  go_enter Try.func8, Try.ntmps8
  go_wp2_with fail
  refine (lives_any w).mono ?_
  rintro e1 w1 ⟨rfl, hb1⟩
  have B1 := Lib.hid hb1
  have S1 := Lib.hid (HSA.out.below' hb1 (fun b h => h))
  clear hb1
  go_wp2_with fail
  refine (own_any la w1 _ A0 la.length c0 S1.out (fun b h => by have := B1.out.size; omega) (by omega)).mono ?_
  rintro e2 w2 ⟨v2, rfl, ho2, hb2⟩
  obtain ⟨A2, c2, rfl, h2c, h2m, hs2⟩ := ho2.src
  have S2 := Lib.hid hs2
  have B2 : Hid (Below w.heap.size w w2) := Lib.hid (B1.out.trans (hb2.mono B1.out.size))
  clear ho2 hs2 hb2 B1 S1
  go_wp2_with fail
  refine (pad_any la w2 _ A2 la.length c2 S2.out (fun b h => h.2) (by omega) h2c h2m).mono ?_
  rintro e3 w3 ⟨v3, rfl, ho3, hb3⟩
  have HO3 := Lib.hid ho3
  have B3 : Hid (Below w.heap.size w w3) := Lib.hid (B2.out.trans (hb3.mono B2.out.size))
  have S3 := Lib.hid (HSB.out.below' B3.out (fun b h => h))
  clear ho3 hb3 B2 S2 h2c h2m
  go_wp2_with fail
  refine (own_any lb w3 _ A1' lb.length c1' S3.out (fun b h => by have := B3.out.size; omega) (by omega)).mono ?_
  rintro e4 w4 ⟨v4, rfl, ho4, hb4⟩
  obtain ⟨A4, c4, rfl, h4c, h4m, hs4⟩ := ho4.src
  have S4 := Lib.hid hs4
  have HO4 := Lib.hid (HO3.out.keep hb4)
  have B4 : Hid (Below w.heap.size w w4) := Lib.hid (B3.out.trans (hb4.mono B3.out.size))
  clear ho4 hs4 hb4 B3 S3 HO3
  go_wp2_with fail
  refine (pad_any lb w4 _ A4 lb.length c4 S4.out (fun b h => h.2) (by omega) h4c h4m).mono ?_
  rintro e5 w5 ⟨v5, rfl, ho5, hb5⟩
  obtain ⟨A5, c5, rfl, _, _, hq⟩ := ho5.src
  obtain ⟨A3, c3, rfl, h3c, h3m, hp⟩ := (HO4.out.keep hb5).src
  have HQ := Lib.hid hq
  have HP := Lib.hid hp
  have B5 : Hid (Below w.heap.size w w5) := Lib.hid (B4.out.trans (hb5.mono B4.out.size))
  have S5 := Lib.hid (HSA.out.below' B5.out (fun b h => h))
  have T5 := Lib.hid (HSB.out.below' B5.out (fun b h => h))
  clear ho5 hq hp hb5 B4 S4 HO4 h4c h4m HSA HSB
  have hpl := padded_len_eq la
  have hzl := zn_lt la.length
  have hpq : (padded la == padded lb) = (la == lb) := by
    by_cases h : la = lb
    · subst h
      simp
    · have h2 : ¬ padded la = padded lb := fun e => h (padded_inj la lb hn0 hn1 e)
      rw [beq_eq_false_iff_ne.2 h, beq_eq_false_iff_ne.2 h2]
  have HTK := Lib.hid (padded_take la)
  have HONE := Lib.hid (padded_one la)
  have HZER := Lib.hid (padded_zero la hn0)
  have HLAST := Lib.hid (padded_last la hn0)
  have hpm : (padded la).length % 128 = 0 := padded_len la
  have CS : Hid (∀ W : World, W = w5 ∨ W = w5.drew → (convert 30 9 (.slice A3 (padded la).length c3)).run Try.prog W = .ok (.string ⟨(padded la).toArray⟩) W ∧ (convert 30 9 (.slice A5 (padded lb).length c5)).run Try.prog W = .ok (.string ⟨(padded lb).toArray⟩) W ∧
      (convert 30 9 (.slice A0 la.length c0)).run Try.prog W = .ok (.string ⟨la.toArray⟩) W ∧ (convert 30 9 (.slice A1' lb.length c1')).run Try.prog W = .ok (.string ⟨lb.toArray⟩) W ∧ (convert 30 9 (.slice A3 la.length c3)).run Try.prog W = .ok (.string ⟨la.toArray⟩) W) := Lib.hid fun W hW => by
    have ht := HP.out.take_b la.length (by omega)
    rw [HTK.out] at ht
    rcases hW with rfl | rfl
    · exact ⟨conv_src HP.out, conv_src HQ.out, conv_src S5.out, conv_src T5.out, conv_src ht⟩
    · exact ⟨conv_src (HP.out.drewN 1), conv_src (HQ.out.drewN 1), conv_src (S5.out.drewN 1), conv_src (T5.out.drewN 1), conv_src (ht.drewN 1)⟩
  obtain ⟨b, o, rfl, hbb, hcell⟩ := HP.out.lies (by omega)
  have HCELL : Hid (∀ i x, i < (padded la).length → (padded la)[i]? = some x → w5.cell? ⟨b, o + i, none⟩ = some (.int .u8 (x.toNat : Int))) := Lib.hid fun i x hi hx => by
    rw [hcell i hi, bcs_get, hx]
    rfl
  have h1 := HCELL.out la.length 128 (by omega) HONE.out
  have h1d : w5.drew.cell? ⟨b, o + la.length, none⟩ = some (.int .u8 128) := h1
  clear HQ HP S5 T5 HTK HONE hcell h1
  generalize padded la = P at *
  generalize padded lb = Q at *
  generalize zn la.length = z at *
  obtain ⟨kp, kq, ka, kb, ks⟩ := CS.out _ (.inr rfl)
  have t1 : ((P.length : Nat) : Int).tmod 128 = 0 := by rw [Int.tmod_eq_emod_of_nonneg (by omega)]; omega
  have t2 : decide ((P.length : Int) - (la.length : Int) < 17) = false := by simp; omega
  have t3 : decide ((144 : Int) < (P.length : Int) - (la.length : Int)) = false := by simp; omega
  have t0 : IntKind.i64.wrap ((P.length : Int) - (la.length : Int)) = (P.length : Int) - (la.length : Int) := by rw [IntKind.wrap_i64]; omega
  have hp1 : la.length + 17 ≤ P.length := by omega
  have hp2 : P.length ≤ la.length + 144 := by omega
  have hp3 : (la.length : Int) < (P.length : Int) := by omega
  have hp4 : (la.length : Int) ≤ (c3 : Int) := by omega
  clear hpl hpm
  go_wp2_with fail
  refine wp_region_still_lit (by kernel_rfl) (by kernel_rfl) ?_
  repeat still_step
  refine wpStill_nil ?_
  have B6 : Hid (Below w.heap.size w w5.drew) := Lib.hid (B5.out.trans (below_drewN' (Below.refl w.heap.size w5) 1))
  have HC6 : Hid (∀ i x, i < P.length → P[i]? = some x → w5.drew.cell? ⟨b, o + i, none⟩ = some (.int .u8 (x.toNat : Int))) := Lib.hid HCELL.out
  clear kp kq ka kb ks CS HCELL B5 h1d hpq t1 t2 t3 t0
  obtain ⟨w6, hw6⟩ : ∃ w6, w6 = w5.drew := ⟨_, rfl⟩
  have hw6' : (⟨w5.heap, w5.tape, w5.drawn + 1, w5.os, w5.output⟩ : World) = w6 := hw6.symm
  rw [← hw6] at B6 HC6
  rw [hw6']
  clear hw6 hw6'
  have hp5 : IntKind.i64.wrap ((P.length : Int) - 4) = ((P.length - 4 : Nat) : Int) := by rw [IntKind.wrap_i64]; omega
  have H5 := Lib.hid hp5
  clear hp5
  go_wp2
  go_loopw [7, 8] (fun n i wr => ∃ k : Nat, k ≤ 4 ∧ i = .int .i64 ((P.length - 4 + k : Nat) : Int) ∧ n = .int .i64 ((la.length * 8 / 256 ^ (4 - k) : Nat) : Int) ∧ w6 = wr) (fun _ i _ => P.length - (intOf i).toNat)
  case atStart =>
    refine ⟨0, by omega, ?_, ?_, rfl⟩
    · congr 1
      omega
    · rw [Nat.div_eq_of_lt (show la.length * 8 < 256 ^ (4 - 0) from Nat.lt_of_lt_of_le (show la.length * 8 < 65536 by omega) (by decide))]
      rfl
  case round =>
    obtain ⟨k, hk, rfl, rfl, rfl⟩ := hrel
    by_cases hlt : k < 4
    · have hm : P.length - 4 + k < P.length := by omega
      have hc := HC6.out (P.length - 4 + k) _ hm (HLAST.out k hlt)
      have hv : la.length * 8 / 256 ^ (4 - k) * 256 + (UInt8.ofNat (la.length * 8 / 256 ^ (3 - k))).toNat = la.length * 8 / 256 ^ (4 - (k + 1)) := by
        rw [UInt8.toNat_ofNat', show 4 - (k + 1) = 3 - k from by omega, show 4 - k = (3 - k) + 1 from by omega, Nat.pow_succ, ← Nat.div_div_eq_div_mul]
        omega
      have hvl : la.length * 8 / 256 ^ (4 - k) ≤ 16000 := Nat.le_trans (Nat.div_le_self _ _) (by omega)
      have hy : (UInt8.ofNat (la.length * 8 / 256 ^ (3 - k))).toNat < 256 := UInt8.toNat_lt _
      have hm2 : P.length - 4 + (k + 1) = P.length - 4 + k + 1 := by omega
      have HM := Lib.hid hm2
      have HV := Lib.hid hv
      clear hm2 hv
      generalize la.length * 8 / 256 ^ (4 - k) = v at *
      generalize (UInt8.ofNat (la.length * 8 / 256 ^ (3 - k))).toNat = y at *
      generalize P.length - 4 + k = m at *
      have hmi : (m : Int) < (P.length : Int) := by omega
      go_wp2_with fail
      go_roundw
      case rel =>
        refine ⟨k + 1, by omega, ?_, ?_, trivial⟩
        · rw [HM.out]
          go_num
        · rw [← HV.out]
          go_num
      case measure => simp [intOf]; omega
    · obtain rfl : k = 4 := by omega
      have e1 : P.length - 4 + 4 = P.length := by omega
      have e2 : ((la.length * 8 / 256 ^ (4 - 4) : Nat) : Int) = 8 * (la.length : Int) := by simp; omega
      rw [e1, e2]
      clear e1 e2 hlt hk
      go_wp2_with fail
      go_loopw [9] (fun i wr => ∃ m : Nat, la.length + 1 ≤ m ∧ m ≤ P.length - 4 ∧ i = .int .i64 (m : Int) ∧ w6 = wr) (fun i _ => P.length - (intOf i).toNat)
      case atStart => exact ⟨la.length + 1, by omega, by omega, by simp, rfl⟩
      case round =>
        obtain ⟨m, hm1, hm2, rfl, rfl⟩ := hrel
        by_cases hlt : m < P.length - 4
        · have hm : m < P.length := by omega
          have hc := HC6.out m _ hm (HZER.out m hm1 hlt)
          rw [show ((0 : UInt8).toNat : Int) = 0 from rfl] at hc
          have hmi : (m : Int) < (P.length : Int) - 4 := by omega
          have hmj : (m : Int) < (P.length : Int) := by omega
          go_wp2_with fail
          go_roundw
          case rel => exact ⟨m + 1, by omega, by omega, by go_num, trivial⟩
          case measure => simp [intOf]; omega
        · obtain rfl : m = P.length - 4 := by omega
          have hmi : ¬ ((P.length - 4 : Nat) : Int) < (P.length : Int) - 4 := by omega
          go_wp2_with fail
          go_ret
          exact ⟨rfl, B6.out⟩

set_option maxRecDepth 100000 in
set_option maxHeartbeats 1000000 in
theorem walkLong (w : World) (A0 A1' : Option Addr) (n0 c0 n1 c1' : Nat) (h : 2000 < n0 ∨ 2000 < n1) (h0 : n0 ≤ 9223372036854775807) (h1 : n1 ≤ 9223372036854775807) :
    Calls Try.prog 8 #[.slice A0 n0 c0, .slice A1' n1 c1'] w fun e w' => e = .returned (.bool true) ∧ Below w.heap.size w w' := by
  have hd : (decide ((2000 : Int) < (n0 : Int)) = true) ∨ (decide ((2000 : Int) < (n0 : Int)) = false ∧ decide ((2000 : Int) < (n1 : Int)) = true) := by
    rcases Nat.lt_or_ge 2000 n0 with h | h'
    · exact .inl (by simp; omega)
    · exact .inr ⟨by simp; omega, by simp; omega⟩
  clear h h0 h1
  rcases hd with hd | ⟨hd, hd'⟩
  all_goals
    go_enter Try.func8, Try.ntmps8
    go_wp2_with fail
    refine (lives_any w).mono ?_
    rintro e1 w1 ⟨rfl, hb1⟩
    have B1 := Lib.hid hb1
    clear hb1
    go_wp2
    go_ret
    exact ⟨rfl, B1.out⟩
theorem walk (a0 : Option Addr) (len0 cap0 : Nat) (z0 : List Int) (a1 : Option Addr) (len1 cap1 : Nat) (z1 : List Int) (w : World) (w0 : IsRow .u8 w a0 len0 cap0 z0) (w1 : IsRow .u8 w a1 len1 cap1 z1) :
    Calls Try.prog 8 #[.slice a0 len0 cap0, .slice a1 len1 cap1] w fun e w' => e = .returned (.bool true) ∧ Below w.heap.size w w' := by
  obtain ⟨h1, h2, l, hl⟩ := w0.bytes
  obtain ⟨h3, h4, p, hp⟩ := w1.bytes
  unfold maxLen at h2 h4
  by_cases h : len0 ≤ 2000 ∧ len1 ≤ 2000
  · exact walkB w a0 a1 len0 cap0 len1 cap1 l p hl hp h.1 h.2
  · exact walkLong w a0 a1 len0 cap0 len1 cap1 (by omega) (by omega) (by omega)
set_option maxRecDepth 100000 in
theorem lifted (os : Os) (started : os.Started) (H : Type) (enc : TypeId × Value → H) :
    ReturnsInHanded {} Try.checked os 8 .any (Rows.shaPadsSpec.pre6 enc Try.prog Try.f8 Rows.shaPadsRow.domain false) (Rows.shaPadsSpec.post enc Try.prog Try.f8 false true false false) := by
  refine returnsInHanded_of_change (C := Try.checked) own started (by kernel_rfl) Try.func8
    (ChangeSpec.witness6 (enc := enc) (C := Try.checked) false ⟨#[], #[.slice none 0 0, .slice none 0 0], []⟩ 8 (by kernel_rfl) (by kernel_rfl) (by kernel_rfl) (by kernel_rfl)) ?_
  intro W base args ds gs before hval0 hW hcnd _
  have hval : ∀ (j : Nat) t v, Try.f8.params[j]? = some t → args[j]? = some v → Value.okWide Try.prog W .any base t v := hval0
  have hW' := hW
  obtain ⟨p, q, hA0, hV, rfl, hfz, hnd⟩ := hW
  have hA : DataW.TrodAll enc Try.prog W 0 (fun _ => true) true Try.f8.params.toList args.toList ds p := hA0
  rw [Try.params8] at hA hval
  obtain ⟨v0, vs0, d0, ds0, p0, q0, hargs, rfl, rfl, h0, r0⟩ := trodAll_cons hA
  obtain ⟨v1, vs1, d1, ds1, p1, q1, rfl, rfl, rfl, h1, r1⟩ := trodAll_cons r0
  obtain ⟨rfl, rfl, rfl⟩ := trodAll_nil r1
  obtain rfl : args = #[v0, v1] := by cases args; simp_all
  obtain ⟨rfl, rfl⟩ := trodVars_none hV
  obtain ⟨a0, len0, cap0, rfl⟩ := okWide_slice Try.underlying30 (hval 0 30 v0 rfl rfl)
  have k0 := h0
  have lt0 : ∀ x ∈ p0, x.block < W.heap.size := by obtain ⟨m, hm⟩ := k0; exact DataW.trod_lt m _ _ _ hm
  obtain ⟨z0, w0⟩ : ∃ zs, IsRow .u8 W a0 len0 cap0 zs := by
    obtain ⟨fuel, hf⟩ := h0
    rcases open_ints Try.underlying30 Try.underlying5 (by kernel_rfl) hf with ⟨hcs, _⟩ | ⟨x, l, c, zs, hcs, _, hl, hm, hz, _, hcell, hwz⟩
    · simp [Value.cells] at hcs
      obtain ⟨rfl, rfl, rfl⟩ := hcs
      exact ⟨[], .inl ⟨rfl, rfl, rfl, rfl⟩⟩
    · simp [Value.cells] at hcs
      obtain ⟨rfl, rfl, rfl⟩ := hcs
      exact ⟨zs, .inr ⟨_, rfl, hl, hm, by simpa using hz, hcell, hwz⟩⟩
  obtain ⟨a1, len1, cap1, rfl⟩ := okWide_slice Try.underlying30 (hval 1 30 v1 rfl rfl)
  have k1 := h1
  have lt1 : ∀ x ∈ p1, x.block < W.heap.size := by obtain ⟨m, hm⟩ := k1; exact DataW.trod_lt m _ _ _ hm
  obtain ⟨z1, w1⟩ : ∃ zs, IsRow .u8 W a1 len1 cap1 zs := by
    obtain ⟨fuel, hf⟩ := h1
    rcases open_ints Try.underlying30 Try.underlying5 (by kernel_rfl) hf with ⟨hcs, _⟩ | ⟨x, l, c, zs, hcs, _, hl, hm, hz, _, hcell, hwz⟩
    · simp [Value.cells] at hcs
      obtain ⟨rfl, rfl, rfl⟩ := hcs
      exact ⟨[], .inl ⟨rfl, rfl, rfl, rfl⟩⟩
    · simp [Value.cells] at hcs
      obtain ⟨rfl, rfl, rfl⟩ := hcs
      exact ⟨zs, .inr ⟨_, rfl, hl, hm, by simpa using hz, hcell, hwz⟩⟩
  clear hA0 hval0
  refine (walk a0 len0 cap0 z0 a1 len1 cap1 z1 W w0 w1).mono fun e W' ⟨he, bel⟩ => ?_
  subst he
  exact ⟨_, rfl, _, _, _, [], _, [], hW', trodAll_mk1 (shut_bool Try.underlying4 _), (trodAll_cons_mk (Below.trod laidOut (by kernel_rfl) (of_decide_eq_true (by kernel_rfl)) k0 bel lt0) (trodAll_cons_mk (Below.trod laidOut (by kernel_rfl) (of_decide_eq_true (by kernel_rfl)) k1 bel lt1) trodAll_mk0)), rfl, bel.frame _, fun h => by cases h⟩

theorem over : Rows.shaPadsRow.holds Try.pinned (OpenSpec.ofChange Rows.shaPadsSpec) :=
  OpenClaim.holds_of_wide 8 Try.f8 rfl rfl rfl rfl rfl rfl rfl ⟨rfl, rfl, rfl, rfl, rfl⟩ rfl rfl rfl rfl rfl (by kernel_rfl) Try.func8 (by kernel_rfl)
    (of_decide_eq_true (by kernel_rfl)) (by unfold Func.isWrapper; first | (rw [if_pos (by decide +kernel)]; kernel_rfl) | (rw [if_neg (by decide +kernel)]; exact ⟨rfl, rfl⟩))
    (fun os started H enc _ => lifted os started H enc)

/-- The statement. -/
theorem proved : Rows.ShaPadsSaid := over
#print axioms proved
end Go.Proofs.Ytphalfpmgbmcaaa.shaPads
