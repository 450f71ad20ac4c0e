/- It is proved that ShaCalls returns true for any bytes, a state and a piece: sums, their words, pieces and padding are as the reference computes them. Conditions: none. -/
import Derived.Test.YtphalfpmgbmcaaaRows
import Derived.Test.YtphalfpmgbmcaaaCO
import Derived.ProofKit
import Derived.OpenShut
import Derived.ChangeOld
namespace Go.Proofs.Ytphalfpmgbmcaaa.shaCalls
open Go.ChangeShapes Go.WideShapes Go.ChangeAt Go.RowKit
set_option linter.unusedVariables false

theorem own : ownKnob Try.prog.godebug = none := by kernel_rfl
theorem laidOut : laidOutB Try.prog = true := by kernel_rfl

set_option maxRecDepth 100000 in
set_option maxHeartbeats 4000000 in
theorem calls_walk (w : World) (A0 A1 : Option Addr) (n0 c0 n1 c1 : Nat) (la lb : List UInt8) (hsa : Src w (· < w.heap.size) A0 n0 (bcs la)) (hsb : Src w (· < w.heap.size) A1 n1 (bcs lb))
    (hn0 : n0 ≤ 2000) (hn1 : n1 ≤ 2000) (hc0 : n0 ≤ c0 ∧ c0 ≤ maxLen) (hc1 : n1 ≤ c1 ∧ c1 ≤ maxLen) (s : St) (hs : s.Fits) (p : List UInt8) (hp : p.length = 128) :
    Calls Try.prog 4 #[.slice A0 n0 c0, .slice A1 n1 c1, .agg (ucs s.words).toArray, .agg (bcs p).toArray] w fun e w' => e = .returned (.bool true) ∧ Below w.heap.size w w' := by
  have hla := src_len hsa
  have hlb := src_len hsb
  have HSA := Lib.hid hsa
  have HSB := Lib.hid hsb
  subst hla
  subst hlb
  have HCA := Lib.hid hc0
  have HCB := Lib.hid hc1
  have HPL := Lib.hid hp
  have HFS := Lib.hid hs
  have HK := Lib.hid (kc_mk s hs p hp)
  clear hsa hsb hc0 hc1 hp hs
  have hda : decide ((2000 : Int) < (la.length : Int)) = false := by simp; omega
  have hdb : decide ((2000 : Int) < (lb.length : Int)) = false := by simp; omega
  have HB1 : Hid (BX ((w.alloc (.cells (ucs s.words).toArray 27)).alloc (.cells (bcs p).toArray 33)) w.heap.size (ucs s.words) 27 ∧ BX ((w.alloc (.cells (ucs s.words).toArray 27)).alloc (.cells (bcs p).toArray 33)) (w.heap.size + 1) (bcs p) 33 ∧ Below w.heap.size w ((w.alloc (.cells (ucs s.words).toArray 27)).alloc (.cells (bcs p).toArray 33))) := Lib.hid (by
    refine ⟨((below_alloc _ _).block _ (by simp)).trans (heap_alloc_new w _), ?_, (below_alloc w _).trans ((below_alloc _ _).mono (by simp))⟩
    have := heap_alloc_new (w.alloc (.cells (ucs s.words).toArray 27)) (.cells (bcs p).toArray 33)
    unfold BX
    simpa using this)
  go_enter Try.func4, Try.ntmps4
  go_wp2_with fail
  generalize (w.alloc (.cells (ucs s.words).toArray 27)).alloc (.cells (bcs p).toArray 33) = w0 at *
  refine (lives_any w0).mono ?_
  rintro e1 w1 ⟨rfl, hb1⟩
  have BS1 := Lib.hid (HB1.out.1.keep hb1)
  have BP1 := Lib.hid (HB1.out.2.1.keep hb1)
  have HBB : Hid (Below w.heap.size w w1) := Lib.hid (HB1.out.2.2.trans (hb1.mono HB1.out.2.2.size))
  have SA1 : Hid (SL w1 A0 la.length la) := Lib.hid ((HSA.out.below' HBB.out (fun b h => h)).weak (fun b h => Nat.lt_of_lt_of_le h HBB.out.size))
  have SB1 : Hid (SL w1 A1 lb.length lb) := Lib.hid ((HSB.out.below' HBB.out (fun b h => h)).weak (fun b h => Nat.lt_of_lt_of_le h HBB.out.size))
  have FIN : Hid (∀ W, Below w1.heap.size w1 W → Below w.heap.size w W) := Lib.hid (fun W hW => HBB.out.trans (hW.mono HBB.out.size))
  clear hb1 HB1 HBB HSA HSB
  go_wp2_with fail
  refine startW (fun _ => false) w1.heap.size (by kernel_rfl) ?_
  have HBW0 : Hid (Below w1.heap.size w1 w1.drew) := Lib.hid (below_drewN' (Below.refl w1.heap.size w1) 1)
  have SA_0 := Lib.hid (SA1.out.keep HBW0.out)
  have SB_0 := Lib.hid (SB1.out.keep HBW0.out)
  have BS_0 := Lib.hid (BS1.out.keep HBW0.out)
  have BP_0 := Lib.hid (BP1.out.keep HBW0.out)
  generalize w1.drew = W0 at *
  refine calls_key0 w w1 W0 A0 A1 c0 c1 la lb hn0 hn1 HCA.out HCB.out s HFS.out p HPL.out _ _ _ _ HK _ (fun i v c a w h => (by cases i <;> exact h)) ?_ _ _ _ _ _ _ _ _ _ _ _ _ _ _ _ _ _ _ _ _ _ _ _ _ _ _ _ _ _ _ _ _ _ _ _ _ _ _ _ _ _ _ _ _ _ _ _ _ _ _ _ _ _ _ _ _ _ _ _ _ _ _ _ _ _ _ _ _ _ _ _ rfl HBW0 SA_0 SB_0 BS_0 BP_0
  intro u0 u1 u2 u3 u4 u5 u6 u7 u9 u10 u11 u12 u13 u14 u15 u16 u17 u18 u19 u20 u21 u22 u23 u24 u25 u26 u27 u28 u29 u30 u31 u32 u33 u34 u35 u36 u37 u38 u39 u40 u41 u42 u43 u44 u45 u46 u47 u48 u49 u50 u51 u52 u53 u54 u55 u56 u57 u58 u59 u60 u61 u62 u63 u64 u65 u66 u67 u68 u69 u70 u71 u72 u73 W hW
  have HF := Lib.hid (FIN.out W hW)
  clear hW
  go_wp2
  go_ret
  exact ⟨rfl, HF.out⟩

set_option maxRecDepth 100000 in
set_option maxHeartbeats 1000000 in
theorem walkLong (w : World) (A0 A1' : Option Addr) (n0 c0 n1 c1' : Nat) (s : St) (p : List UInt8) (h : 2000 < n0 ∨ 2000 < n1) (h0 : n0 ≤ 9223372036854775807) (h1 : n1 ≤ 9223372036854775807) :
    Calls Try.prog 4 #[.slice A0 n0 c0, .slice A1' n1 c1', .agg (ucs s.words).toArray, .agg (bcs p).toArray] w fun e w' => e = .returned (.bool true) ∧ Below w.heap.size w w' := by
  have hd : (decide ((2000 : Int) < (n0 : Int)) = true) ∨ (decide ((2000 : Int) < (n0 : Int)) = false ∧ decide ((2000 : Int) < (n1 : Int)) = true) := by
    rcases Nat.lt_or_ge 2000 n0 with h | h'
    · exact .inl (by simp; omega)
    · exact .inr ⟨by simp; omega, by simp; omega⟩
  have HB : Hid (Below w.heap.size w ((w.alloc (.cells (ucs s.words).toArray 27)).alloc (.cells (bcs p).toArray 33))) := Lib.hid ((below_alloc w _).trans ((below_alloc _ _).mono (by simp)))
  clear h h0 h1
  rcases hd with hd | ⟨hd, hd'⟩
  all_goals
    go_enter Try.func4, Try.ntmps4
    go_wp2_with fail
    generalize (w.alloc (.cells (ucs s.words).toArray 27)).alloc (.cells (bcs p).toArray 33) = w0 at *
    refine (lives_any w0).mono ?_
    rintro e1 w1 ⟨rfl, hb1⟩
    have B1 := Lib.hid (HB.out.trans (hb1.mono HB.out.size))
    clear hb1
    go_wp2
    go_ret
    exact ⟨rfl, B1.out⟩
theorem walk (a0 : Option Addr) (len0 cap0 : Nat) (z0 : List Int) (a1 : Option Addr) (len1 cap1 : Nat) (z1 : List Int) (z2 : List Nat) (z3 : List UInt8) (w : World) (w0 : IsRow .u8 w a0 len0 cap0 z0) (w1 : IsRow .u8 w a1 len1 cap1 z1) (w2 : z2.length = 8 ∧ ∀ x ∈ z2, x < 18446744073709551616) (w3 : z3.length = 128) :
    Calls Try.prog 4 #[.slice a0 len0 cap0, .slice a1 len1 cap1, .agg (ucs z2).toArray, .agg (bcs z3).toArray] w fun e w' => e = .returned (.bool true) ∧ Below w.heap.size w w' := by
  obtain ⟨h1, h2, l, hl⟩ := w0.bytes
  obtain ⟨h3, h4, p, hp⟩ := w1.bytes
  obtain ⟨s, rfl, hs⟩ := st_of z2 w2.1 w2.2
  by_cases h : len0 ≤ 2000 ∧ len1 ≤ 2000
  · exact calls_walk w a0 a1 len0 cap0 len1 cap1 l p hl hp h.1 h.2 ⟨h1, h2⟩ ⟨h3, h4⟩ s hs z3 w3
  · unfold maxLen at h2 h4
    exact walkLong w a0 a1 len0 cap0 len1 cap1 s z3 (by omega) (by omega) (by omega)
set_option maxRecDepth 100000 in
theorem lifted (os : Os) (started : os.Started) (H : Type) (enc : TypeId × Value → H) :
    ReturnsInHanded {} Try.checked os 4 .any (Rows.shaCallsSpec.pre6 enc Try.prog Try.f4 Rows.shaCallsRow.domain false) (Rows.shaCallsSpec.post enc Try.prog Try.f4 false true false false) := by
  refine returnsInHanded_of_change (C := Try.checked) own started (by kernel_rfl) Try.func4
    (ChangeSpec.witness6 (enc := enc) (C := Try.checked) false ⟨#[], #[.slice none 0 0, .slice none 0 0, .agg (Array.replicate 8 (.int .u64 0)), .agg (Array.replicate 128 (.int .u8 0))], []⟩ 8 (by kernel_rfl) (by kernel_rfl) (by kernel_rfl) (by kernel_rfl)) ?_
  intro W base args ds gs before hval0 hW hcnd _
  have hval : ∀ (j : Nat) t v, Try.f4.params[j]? = some t → args[j]? = some v → Value.okWide Try.prog W .any base t v := hval0
  have hW' := hW
  obtain ⟨p, q, hA0, hV, rfl, hfz, hnd⟩ := hW
  have hA : DataW.TrodAll enc Try.prog W 0 (fun _ => true) true Try.f4.params.toList args.toList ds p := hA0
  rw [Try.params4] at hA hval
  obtain ⟨v0, vs0, d0, ds0, p0, q0, hargs, rfl, rfl, h0, r0⟩ := trodAll_cons hA
  obtain ⟨v1, vs1, d1, ds1, p1, q1, rfl, rfl, rfl, h1, r1⟩ := trodAll_cons r0
  obtain ⟨v2, vs2, d2, ds2, p2, q2, rfl, rfl, rfl, h2, r2⟩ := trodAll_cons r1
  obtain ⟨v3, vs3, d3, ds3, p3, q3, rfl, rfl, rfl, h3, r3⟩ := trodAll_cons r2
  obtain ⟨rfl, rfl, rfl⟩ := trodAll_nil r3
  obtain rfl : args = #[v0, v1, v2, v3] := by cases args; simp_all
  obtain ⟨rfl, rfl⟩ := trodVars_none hV
  obtain ⟨a0, len0, cap0, rfl⟩ := okWide_slice Try.underlying30 (hval 0 30 v0 rfl rfl)
  have k0 := h0
  have lt0 : ∀ x ∈ p0, x.block < W.heap.size := by obtain ⟨m, hm⟩ := k0; exact DataW.trod_lt m _ _ _ hm
  obtain ⟨z0, w0⟩ : ∃ zs, IsRow .u8 W a0 len0 cap0 zs := by
    obtain ⟨fuel, hf⟩ := h0
    rcases open_ints Try.underlying30 Try.underlying5 (by kernel_rfl) hf with ⟨hcs, _⟩ | ⟨x, l, c, zs, hcs, _, hl, hm, hz, _, hcell, hwz⟩
    · simp [Value.cells] at hcs
      obtain ⟨rfl, rfl, rfl⟩ := hcs
      exact ⟨[], .inl ⟨rfl, rfl, rfl, rfl⟩⟩
    · simp [Value.cells] at hcs
      obtain ⟨rfl, rfl, rfl⟩ := hcs
      exact ⟨zs, .inr ⟨_, rfl, hl, hm, by simpa using hz, hcell, hwz⟩⟩
  obtain ⟨a1, len1, cap1, rfl⟩ := okWide_slice Try.underlying30 (hval 1 30 v1 rfl rfl)
  have k1 := h1
  have lt1 : ∀ x ∈ p1, x.block < W.heap.size := by obtain ⟨m, hm⟩ := k1; exact DataW.trod_lt m _ _ _ hm
  obtain ⟨z1, w1⟩ : ∃ zs, IsRow .u8 W a1 len1 cap1 zs := by
    obtain ⟨fuel, hf⟩ := h1
    rcases open_ints Try.underlying30 Try.underlying5 (by kernel_rfl) hf with ⟨hcs, _⟩ | ⟨x, l, c, zs, hcs, _, hl, hm, hz, _, hcell, hwz⟩
    · simp [Value.cells] at hcs
      obtain ⟨rfl, rfl, rfl⟩ := hcs
      exact ⟨[], .inl ⟨rfl, rfl, rfl, rfl⟩⟩
    · simp [Value.cells] at hcs
      obtain ⟨rfl, rfl, rfl⟩ := hcs
      exact ⟨zs, .inr ⟨_, rfl, hl, hm, by simpa using hz, hcell, hwz⟩⟩
  have k2 := h2
  have lt2 : ∀ x ∈ p2, x.block < W.heap.size := by obtain ⟨m, hm⟩ := k2; exact DataW.trod_lt m _ _ _ hm
  obtain ⟨z2, w2, rfl⟩ := open_arrQ Try.underlying27 Try.underlying24 (by kernel_rfl) (by kernel_rfl) (hval 2 27 v2 rfl rfl) h2
  have k3 := h3
  have lt3 : ∀ x ∈ p3, x.block < W.heap.size := by obtain ⟨m, hm⟩ := k3; exact DataW.trod_lt m _ _ _ hm
  obtain ⟨z3, w3, rfl⟩ := open_arr Try.underlying33 Try.underlying5 (by kernel_rfl) (by kernel_rfl) (hval 3 33 v3 rfl rfl) h3
  clear hA0 hval0
  refine (walk a0 len0 cap0 z0 a1 len1 cap1 z1 z2 z3 W w0 w1 w2 w3).mono fun e W' ⟨he, bel⟩ => ?_
  subst he
  exact ⟨_, rfl, _, _, _, [], _, [], hW', trodAll_mk1 (shut_bool Try.underlying4 _), (trodAll_cons_mk (Below.trod laidOut (by kernel_rfl) (of_decide_eq_true (by kernel_rfl)) k0 bel lt0) (trodAll_cons_mk (Below.trod laidOut (by kernel_rfl) (of_decide_eq_true (by kernel_rfl)) k1 bel lt1) (trodAll_cons_mk (Below.trod laidOut (by kernel_rfl) (of_decide_eq_true (by kernel_rfl)) k2 bel lt2) (trodAll_cons_mk (Below.trod laidOut (by kernel_rfl) (of_decide_eq_true (by kernel_rfl)) k3 bel lt3) trodAll_mk0)))), rfl, bel.frame _, fun h => by cases h⟩

theorem over : Rows.shaCallsRow.holds Try.pinned (OpenSpec.ofChange Rows.shaCallsSpec) :=
  OpenClaim.holds_of_wide 4 Try.f4 rfl rfl rfl rfl rfl rfl rfl ⟨rfl, rfl, rfl, rfl, rfl⟩ rfl rfl rfl rfl rfl (by kernel_rfl) Try.func4 (by kernel_rfl)
    (of_decide_eq_true (by kernel_rfl)) (by unfold Func.isWrapper; first | (rw [if_pos (by decide +kernel)]; kernel_rfl) | (rw [if_neg (by decide +kernel)]; exact ⟨rfl, rfl⟩))
    (fun os started H enc _ => lifted os started H enc)

/-- The statement. -/
theorem proved : Rows.ShaCallsSaid := over
#print axioms proved
end Go.Proofs.Ytphalfpmgbmcaaa.shaCalls
