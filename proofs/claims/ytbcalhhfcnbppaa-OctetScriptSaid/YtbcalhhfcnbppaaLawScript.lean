/- It is proved that OctetScript returns true for all bytes and all scripts of calls: what is read from any bytes is what the document's own reader reads, up to the first error and after it. Conditions: none. -/
import Derived.Test.YtbcalhhfcnbppaaRows
import Derived.Test.YtbcalhhfcnbppaaI
import Derived.Test.YtbcalhhfcnbppaaS
import Derived.Test.YtbcalhhfcnbppaaT
import Derived.Test.YtbcalhhfcnbppaaU
import Derived.ProofKit
import Derived.OpenShut
import Derived.ChangeOld
namespace Go.Proofs.Ytbcalhhfcnbppaa.octetScript
open Go.ChangeShapes Go.WideShapes Go.ChangeAt Go.RowKit
set_option linter.unusedVariables false
set_option linter.unusedSimpArgs false

theorem own : ownKnob Try.prog.godebug = none := by kernel_rfl
theorem laidOut : laidOutB Try.prog = true := by kernel_rfl
theorem grown_drew (w : World) : w.grownBy w.drew none := ⟨rfl, rfl, rfl, Nat.le_refl _, fun _ _ _ => rfl⟩
theorem grown_drewN (w : World) (q : Nat) : w.grownBy (w.drewN q) none := ⟨rfl, rfl, rfl, Nat.le_refl _, fun _ _ _ => rfl⟩

/-- Both readers, in step. -/
structure Two (w0 w : World) (lo mid hi g h : Nat) (l : List UInt8) (k e : Nat) : Prop where
  a : Rdr w lo mid g l k e
  b : Rf w mid hi h l k e
  old : Below w0.heap.size w0 w
  base : w0.heap.size ≤ lo
theorem Two.far {w0 w w' : World} {lo mid hi g h : Nat} {l : List UInt8} {k e : Nat} (t : Two w0 w lo mid hi g h l k e) (hg : w.grownBy w' none) : Two w0 w' lo mid hi g h l k e :=
  ⟨t.a.far hg (by simp), t.b.far hg (by simp), t.old.grown hg t.old.size (by simp), t.base⟩
/-- The first reader has gone on. -/
theorem Two.fst {w0 w w' : World} {lo mid hi g h : Nat} {l : List UInt8} {k e : Nat} (t : Two w0 w lo mid hi g h l k e) (hg : w.grownBy w' (some g)) : Rf w' mid hi h l k e ∧ Below w0.heap.size w0 w' := by
  have h1 := t.a.lo_le
  have h2 := t.a.g_lt
  have h3 := t.base
  exact ⟨t.b.far hg (by intro r hr; injection hr with hr; omega), t.old.grown hg t.old.size (by intro r hr; injection hr with hr; omega)⟩
/-- Then the second. -/
theorem Two.snd {w0 w w' : World} {lo mid hi g h : Nat} {l : List UInt8} {k e k' e' : Nat} (ha : Rdr w lo mid g l k' e') (hb : Below w0.heap.size w0 w) (hl : w0.heap.size ≤ lo) (hm : Rf w mid hi h l k e) (hg : w.grownBy w' (some h)) (h2 : Rf w' mid hi h l k' e') : Two w0 w' lo mid hi g h l k' e' := by
  have h3 := hm.lo_le
  have h4 := ha.lo_le
  have h5 := ha.g_lt
  exact ⟨ha.far hg (by intro r hr; injection hr with hr; omega), h2, hb.grown hg hb.size (by intro r hr; injection hr with hr; omega), hl⟩

set_option maxRecDepth 100000 in
set_option maxHeartbeats 8000000 in
theorem walkB (w : World) (A0 A1' : Option Addr) (n0 c0 n1 c1' : Nat) (l : List UInt8) (zs : List Int) (hb : Src w (· < w.heap.size) A0 n0 (bcs l)) (hp : Src w (· < w.heap.size) A1' n1 (zs.map (Value.int .i64)))
    (hn0 : n0 ≤ 3000) (hn1 : n1 ≤ 3000) (hzs : ∀ z ∈ zs, -9223372036854775808 ≤ z ∧ z ≤ 9223372036854775807) :
    Calls Try.prog 5 #[.slice A0 n0 c0, .slice A1' n1 c1'] w fun e w' => e = .returned (.bool true) ∧ Below w.heap.size w w' := by
  have hl := src_len hb
  subst hl
  have hlz : zs.length = n1 := by have := hp.len; simpa using this
  subst hlz
  have HZS := Lib.hid hzs
  have hl9 : l.length ≤ 1000000000 := by omega
  clear hzs
  go_enter Try.func5, Try.ntmps5
  go_wp2_with fail
  refine (lives_any w).mono ?_
  rintro e1 w1 ⟨rfl, hb1⟩
  have hsb1 := (hb.weak (S' := (· < w.heap.size)) (fun _ h => h)).below (S' := (· < w.heap.size)) hb1 (fun _ h => h)
  have HSP : Hid (∀ wr, Below w.heap.size w wr → Src wr (· < w.heap.size) A1' zs.length (zs.map (Value.int .i64))) := fun wr h9 => (hp.weak (S' := (· < w.heap.size)) (fun _ h => h)).below (S' := (· < w.heap.size)) h9 (fun _ h => h)
  have HB1 := Lib.hid hb1
  have hz1 := hb1.size
  clear hb1 hb hp
  go_wp2_with fail
  refine (own_any w1 _ A0 _ c0 l hsb1 (fun b hb => by omega) hl9).mono ?_
  rintro e2 w2 ⟨u2, rfl, ho2, hb2⟩
  obtain ⟨A2, c2, rfl, _, _, hs2⟩ := own_shape ho2
  have hz2 := hb2.size
  have HB2 := Lib.hid (HB1.out.trans (hb2.mono hz1))
  have hsb2 := hsb1.below (S' := (· < w.heap.size)) (hb2.mono hz1) (fun _ h => h)
  clear HB1 hsb1 ho2 hb2
  go_wp2_with fail
  refine (read_any w2 _ A2 _ c2 l hs2 (fun b hb => hb.2) hl9).mono ?_
  rintro e3 w3 ⟨g, rfl, hr3, hb3⟩
  have hz3 := hb3.size
  have HB3 := Lib.hid (HB2.out.trans (hb3.mono (by omega)))
  have hsb3 := hsb2.below (S' := (· < w.heap.size)) (hb3.mono (by omega)) (fun _ h => h)
  have HR3 := Lib.hid hr3
  clear HB2 hsb2 hb3 hr3 hs2
  go_wp2_with fail
  refine (rfRead_any w3 _ A0 _ c0 l hsb3 (fun b hb => by omega) hl9).mono ?_
  rintro e4 w4 ⟨g2, rfl, hr4, hb4⟩
  have HT : Hid (Two w w4 w2.heap.size w3.heap.size w4.heap.size g g2 l 0 0) := ⟨HR3.out.below hb4 (Nat.le_refl _), hr4, HB3.out.trans (hb4.mono (by omega)), by omega⟩
  have hz4 := hb4.size
  have HZ4 : Hid (w.heap.size ≤ w4.heap.size) := by
    have := hb4.size
    exact Lib.hid (by omega)
  generalize w2.heap.size = lo at *
  generalize w3.heap.size = mid at *
  generalize hhi : w4.heap.size = hi at *
  clear HB3 hsb3 hr4 hb4 HR3 hz1 hz2 hz3 hz4
  go_wp2
  go_loopw [7] (fun v wr => ∃ j k e : Nat, j ≤ zs.length ∧ v = .int .i64 j ∧ Two w wr lo mid hi g g2 l k e) (fun v _ => zs.length - (intOf v).toNat)
  case atStart => exact ⟨0, 0, 0, by omega, rfl, HT.out⟩
  case round =>
    obtain ⟨j, k, e, hj, rfl, ht⟩ := hrel
    rename World => wr
    clear HT
    have HT := Lib.hid ht
    clear ht
    by_cases hlt : j < zs.length
    · have hsp := HSP.out _ HT.out.old
      obtain ⟨b, o, rfl, hbo, hcell⟩ := hsp.lies (by omega)
      have hcj : wr.cell? ⟨b, o + j, none⟩ = some (.int .i64 zs[j]) := by
        rw [hcell j (by simpa using hlt), List.getElem?_map, List.getElem?_eq_getElem hlt]; rfl
      clear hcell hsp
      have hzb := HZS.out zs[j] (List.getElem_mem hlt)
      generalize zs[j] = z at *
      have h5 := Int.mul_tdiv_add_tmod z 5
      have h6 := Int.tmod_lt_of_pos z (show (0 : Int) < 5 by omega)
      have h7 := Int.lt_tmod_of_pos z (show (0 : Int) < 5 by omega)
      have hq1 : -2000000000000000000 ≤ z.tdiv 5 := by omega
      have hq2 : z.tdiv 5 ≤ 2000000000000000000 := by omega
      have hr1 := Int.tmod_lt_of_pos (z.tdiv 5) (show (0 : Int) < 40 by omega)
      have hr2 := Int.lt_tmod_of_pos (z.tdiv 5) (show (0 : Int) < 40 by omega)
      clear hzb h5 h6 h7
      go_wp2_with fail
      refine (pick_any z wr).mono ?_
      rintro e5 wq ⟨p, rfl, hp0, hp5, hwq⟩
      subst hwq
      clear hcj hq1 hq2
      have hs1 : (z.tdiv 5).tmod 40 - 3 < 9223372036854775808 := by omega
      generalize (z.tdiv 5).tmod 40 - 3 = s at *
      have HS1 := Lib.hid hs1
      clear hr1 hr2 hs1
      have hp : p = 0 ∨ p = 1 ∨ p = 2 ∨ p = 3 ∨ p = 4 := by omega
      clear hp0 hp5
      rcases hp with rfl | rfl | rfl | rfl | rfl
      -- a number
      have CA := Lib.hid (HT.out.a.num hl9)
      have CB := Lib.hid (fun (w5 : World) (h : Rf w5 mid hi g2 l k e) => h.num hl9)
      generalize numS l k e = r at *
      obtain ⟨x, kx, ex⟩ := r
      simp only at CA CB
      go_wp2_with (first | (go_at_call 10; refine CA.out.mono ?_; rintro e5 w5 ⟨rfl, hg5, ha5⟩; have F5 := Lib.hid (HT.out.fst hg5); have HA5 := Lib.hid ha5; clear hg5 ha5) | (go_at_call 27; refine (CB.out _ F5.out.1).mono ?_; rintro e6 wx ⟨rfl, hg6, hb6⟩; have HX : Hid (Two w wx lo mid hi g g2 l kx ex) := Two.snd HA5.out F5.out.2 HT.out.base F5.out.1 hg6 hb6; clear hg6 hb6))
      clear CA CB F5 HA5
      rotate_left
      -- a block
      obtain ⟨wd, hwd⟩ : ∃ wd, wd = wq.drew := ⟨_, rfl⟩
      have HT2 : Hid (Two w wd lo mid hi g g2 l k e) := by rw [hwd]; exact HT.out.far (grown_drew _)
      have hgg : g < wd.heap.size ∧ g2 < wd.heap.size := by
        have h1 := HT2.out.a.g_lt
        have h2 := HT2.out.b.lo_le
        have h3 := HT2.out.b.g_lt
        have h4 := HT2.out.b.hi_le
        omega
      have CA := Lib.hid (HT2.out.a.block hl9)
      have CB := Lib.hid (fun (w5 : World) (h : Rf w5 mid hi g2 l k e) => h.block hl9)
      generalize blkS l k e = r at *
      obtain ⟨out, kx, ex⟩ := r
      simp only at CA CB
      go_wp2_with fail
      refine anyStart (fun b => b = g ∨ b = g2) (by kernel_rfl) ?_
      rw [← hwd]
      refine anyTakeE (i := 0) (oi := { dst := some 57, op := Op.move (Operand.tmp 5), type := 22, pos := "law.go:62", after := #[], guard := none }) rfl (by kernel_rfl) (by kernel_rfl) (by kernel_rfl) (fun _ _ _ _ h => h) (by rfl) ?_
      apply Exists.intro
      refine ⟨fun w' hk => ?_, ?_⟩
      · go_simp <;> with_reducible rfl
      simp only [Act.put, List.setIfInBounds_toArray, List.set_cons_zero, List.set_cons_succ]
      refine anyTakeE (i := 3) (oi := { dst := some 60, op := Op.move (Operand.tmp 6), type := 42, pos := "law.go:62", after := #[], guard := none }) rfl (by kernel_rfl) (by kernel_rfl) (by kernel_rfl) (fun _ _ _ _ h => h) (by rfl) ?_
      apply Exists.intro
      refine ⟨fun w' hk => ?_, ?_⟩
      · go_simp <;> with_reducible rfl
      simp only [Act.put, List.setIfInBounds_toArray, List.set_cons_zero, List.set_cons_succ]
      refine anyCall (i := 1) (oi := { dst := some 58, op := Op.call { callee := Callee.value (Operand.func 12), args := #[Operand.tmp 57], argTypes := #[22] }, type := 24, pos := "law.go:62", after := #[{ on := 0, ground := Ground.data }], guard := none }) rfl (by kernel_rfl) (by rfl) ?_ ((CA.out).mono ?_)
      · go_simp
      rintro e5 w5 ⟨v5, rfl, ho5, hg5, ha5⟩
      obtain ⟨A5, c5, rfl, _, _, hs5⟩ := own_shape ho5
      have z5 := hg5.size
      have F5 := Lib.hid (HT2.out.fst hg5)
      have HA5 := Lib.hid ha5
      refine ⟨_, rfl, Keeps.of_grown hg5 (fun r hr => by injection hr with hr; exact .inl hr.symm), ?_⟩
      simp only [Act.put, List.setIfInBounds_toArray, List.set_cons_zero, List.set_cons_succ]
      refine anyTake (i := 2) (oi := { dst := some 59, op := Op.convert 24 9 (Operand.tmp 58), type := 9, pos := "law.go:62", after := #[{ on := 1, ground := Ground.data }], guard := none }) rfl (by kernel_rfl) (by kernel_rfl) (by kernel_rfl) (fun _ _ _ h => h) (by rfl) (fun w' hk => exec_convert rfl (conv_src (hs5.keeps hk (fun b hb => ⟨hb.2, by have := hgg; intro h; omega⟩)))) ?_
      simp only [Act.put, List.setIfInBounds_toArray, List.set_cons_zero, List.set_cons_succ]
      refine anyCall (i := 4) (oi := { dst := some 61, op := Op.call { callee := Callee.value (Operand.func 28), args := #[Operand.tmp 60], argTypes := #[42] }, type := 24, pos := "law.go:62", after := #[{ on := 3, ground := Ground.data }, { on := 1, ground := Ground.chain }], guard := none }) rfl (by kernel_rfl) (by rfl) ?_ (((CB.out w5 F5.out.1)).mono ?_)
      · go_simp
      rintro e6 wx ⟨v6, rfl, ho6, hg6, hb6⟩
      obtain ⟨A6, c6, rfl, _, _, hs6⟩ := own_shape ho6
      have HX : Hid (Two w wx lo mid hi g g2 l kx ex) := Two.snd HA5.out F5.out.2 HT2.out.base F5.out.1 hg6 hb6
      refine ⟨_, rfl, Keeps.of_grown hg6 (fun r hr => by injection hr with hr; exact .inr hr.symm), ?_⟩
      simp only [Act.put, List.setIfInBounds_toArray, List.set_cons_zero, List.set_cons_succ]
      refine anyTake (i := 5) (oi := { dst := some 62, op := Op.convert 24 9 (Operand.tmp 61), type := 9, pos := "law.go:62", after := #[{ on := 4, ground := Ground.data }], guard := none }) rfl (by kernel_rfl) (by kernel_rfl) (by kernel_rfl) (fun _ _ _ h => h) (by rfl) (fun w' hk => exec_convert rfl (conv_src (hs6.keeps hk (fun b hb => ⟨hb.2, by have := hgg; intro h; omega⟩)))) ?_
      simp only [Act.put, List.setIfInBounds_toArray, List.set_cons_zero, List.set_cons_succ]
      refine anyTakeE (i := 6) (oi := { dst := some 63, op := Op.binOp BinOp.eql 9 (Operand.tmp 59) (Operand.tmp 62) 9, type := 4, pos := "law.go:62", after := #[{ on := 2, ground := Ground.data }, { on := 5, ground := Ground.data }], guard := none }) rfl (by kernel_rfl) (by kernel_rfl) (by kernel_rfl) (fun _ _ _ _ h => h) (by rfl) ?_
      apply Exists.intro
      refine ⟨fun w' hk => ?_, ?_⟩
      · go_simp <;> with_reducible rfl
      simp only [Act.put, List.setIfInBounds_toArray, List.set_cons_zero, List.set_cons_succ]
      refine anyTakeE (i := 7) (oi := { dst := some 9, op := Op.assign (Operand.tmp 63), type := 4, pos := "law.go:62", after := #[{ on := 6, ground := Ground.data }, { on := 4, ground := Ground.chain }, { on := 0, ground := Ground.phase }, { on := 1, ground := Ground.phase }, { on := 2, ground := Ground.phase }, { on := 3, ground := Ground.phase }, { on := 4, ground := Ground.phase }, { on := 5, ground := Ground.phase }, { on := 6, ground := Ground.phase }], guard := none }) rfl (by kernel_rfl) (by kernel_rfl) (by kernel_rfl) (fun _ _ _ _ h => h) (by rfl) ?_
      apply Exists.intro
      refine ⟨fun w' hk => ?_, ?_⟩
      · go_simp <;> with_reducible rfl
      simp only [Act.put, List.setIfInBounds_toArray, List.set_cons_zero, List.set_cons_succ]
      refine anyDone (by kernel_rfl) ?_ _
      go_wp2_with fail
      clear CA CB F5 HA5 HT2 ho5 hg5 ha5 hs5 ho6 hg6 hb6 hs6 hgg z5 hwd
      rotate_left
      -- a word
      have CA := Lib.hid (HT.out.a.word hl9 s)
      have CB := Lib.hid (fun (w5 : World) (h : Rf w5 mid hi g2 l k e) => h.word hl9 s)
      generalize takeS l k e (wsz s) = r at *
      obtain ⟨out, kx, ex⟩ := r
      simp only at CA CB
      generalize lev out = x at *
      go_wp2_with (first | (go_at_call 11; refine CA.out.mono ?_; rintro e5 w5 ⟨rfl, hg5, ha5⟩; have F5 := Lib.hid (HT.out.fst hg5); have HA5 := Lib.hid ha5; clear hg5 ha5) | (go_at_call 29; refine (CB.out _ F5.out.1).mono ?_; rintro e6 wx ⟨rfl, hg6, hb6⟩; have HX : Hid (Two w wx lo mid hi g g2 l kx ex) := Two.snd HA5.out F5.out.2 HT.out.base F5.out.1 hg6 hb6; clear hg6 hb6))
      clear CA CB F5 HA5 out
      rotate_left
      -- so many bytes
      obtain ⟨wd, hwd⟩ : ∃ wd, wd = wq.drew := ⟨_, rfl⟩
      have HT2 : Hid (Two w wd lo mid hi g g2 l k e) := by rw [hwd]; exact HT.out.far (grown_drew _)
      have hgg : g < wd.heap.size ∧ g2 < wd.heap.size := by
        have h1 := HT2.out.a.g_lt
        have h2 := HT2.out.b.lo_le
        have h3 := HT2.out.b.g_lt
        have h4 := HT2.out.b.hi_le
        omega
      have CA := Lib.hid (HT2.out.a.takeN hl9 s HS1.out)
      have CB := Lib.hid (fun (w5 : World) (h : Rf w5 mid hi g2 l k e) => h.takeN hl9 s HS1.out)
      generalize takeS l k e s.toNat = r at *
      obtain ⟨out, kx, ex⟩ := r
      simp only at CA CB
      go_wp2_with fail
      refine anyStart (fun b => b = g ∨ b = g2) (by kernel_rfl) ?_
      rw [← hwd]
      refine anyTakeE (i := 0) (oi := { dst := some 75, op := Op.move (Operand.tmp 5), type := 22, pos := "law.go:66", after := #[], guard := none }) rfl (by kernel_rfl) (by kernel_rfl) (by kernel_rfl) (fun _ _ _ _ h => h) (by rfl) ?_
      apply Exists.intro
      refine ⟨fun w' hk => ?_, ?_⟩
      · go_simp <;> with_reducible rfl
      simp only [Act.put, List.setIfInBounds_toArray, List.set_cons_zero, List.set_cons_succ]
      refine anyTakeE (i := 1) (oi := { dst := some 76, op := Op.move (Operand.tmp 8), type := 3, pos := "law.go:66", after := #[], guard := none }) rfl (by kernel_rfl) (by kernel_rfl) (by kernel_rfl) (fun _ _ _ _ h => h) (by rfl) ?_
      apply Exists.intro
      refine ⟨fun w' hk => ?_, ?_⟩
      · go_simp <;> with_reducible rfl
      simp only [Act.put, List.setIfInBounds_toArray, List.set_cons_zero, List.set_cons_succ]
      refine anyTakeE (i := 4) (oi := { dst := some 79, op := Op.move (Operand.tmp 6), type := 42, pos := "law.go:66", after := #[], guard := none }) rfl (by kernel_rfl) (by kernel_rfl) (by kernel_rfl) (fun _ _ _ _ h => h) (by rfl) ?_
      apply Exists.intro
      refine ⟨fun w' hk => ?_, ?_⟩
      · go_simp <;> with_reducible rfl
      simp only [Act.put, List.setIfInBounds_toArray, List.set_cons_zero, List.set_cons_succ]
      refine anyTakeE (i := 5) (oi := { dst := some 80, op := Op.move (Operand.tmp 8), type := 3, pos := "law.go:66", after := #[], guard := none }) rfl (by kernel_rfl) (by kernel_rfl) (by kernel_rfl) (fun _ _ _ _ h => h) (by rfl) ?_
      apply Exists.intro
      refine ⟨fun w' hk => ?_, ?_⟩
      · go_simp <;> with_reducible rfl
      simp only [Act.put, List.setIfInBounds_toArray, List.set_cons_zero, List.set_cons_succ]
      refine anyCall (i := 2) (oi := { dst := some 77, op := Op.call { callee := Callee.value (Operand.func 30), args := #[Operand.tmp 75, Operand.tmp 76], argTypes := #[22, 3] }, type := 24, pos := "law.go:66", after := #[{ on := 0, ground := Ground.data }, { on := 1, ground := Ground.data }], guard := none }) rfl (by kernel_rfl) (by rfl) ?_ ((CA.out).mono ?_)
      · go_simp
      rintro e5 w5 ⟨v5, rfl, ho5, hg5, ha5⟩
      obtain ⟨A5, c5, rfl, _, _, hs5⟩ := own_shape ho5
      have z5 := hg5.size
      have F5 := Lib.hid (HT2.out.fst hg5)
      have HA5 := Lib.hid ha5
      refine ⟨_, rfl, Keeps.of_grown hg5 (fun r hr => by injection hr with hr; exact .inl hr.symm), ?_⟩
      simp only [Act.put, List.setIfInBounds_toArray, List.set_cons_zero, List.set_cons_succ]
      refine anyTake (i := 3) (oi := { dst := some 78, op := Op.convert 24 9 (Operand.tmp 77), type := 9, pos := "law.go:66", after := #[{ on := 2, ground := Ground.data }], guard := none }) rfl (by kernel_rfl) (by kernel_rfl) (by kernel_rfl) (fun _ _ _ h => h) (by rfl) (fun w' hk => exec_convert rfl (conv_src (hs5.keeps hk (fun b hb => ⟨hb.2, by have := hgg; intro h; omega⟩)))) ?_
      simp only [Act.put, List.setIfInBounds_toArray, List.set_cons_zero, List.set_cons_succ]
      refine anyCall (i := 6) (oi := { dst := some 81, op := Op.call { callee := Callee.value (Operand.func 31), args := #[Operand.tmp 79, Operand.tmp 80], argTypes := #[42, 3] }, type := 24, pos := "law.go:66", after := #[{ on := 4, ground := Ground.data }, { on := 5, ground := Ground.data }, { on := 2, ground := Ground.chain }], guard := none }) rfl (by kernel_rfl) (by rfl) ?_ (((CB.out w5 F5.out.1)).mono ?_)
      · go_simp
      rintro e6 wx ⟨v6, rfl, ho6, hg6, hb6⟩
      obtain ⟨A6, c6, rfl, _, _, hs6⟩ := own_shape ho6
      have HX : Hid (Two w wx lo mid hi g g2 l kx ex) := Two.snd HA5.out F5.out.2 HT2.out.base F5.out.1 hg6 hb6
      refine ⟨_, rfl, Keeps.of_grown hg6 (fun r hr => by injection hr with hr; exact .inr hr.symm), ?_⟩
      simp only [Act.put, List.setIfInBounds_toArray, List.set_cons_zero, List.set_cons_succ]
      refine anyTake (i := 7) (oi := { dst := some 82, op := Op.convert 24 9 (Operand.tmp 81), type := 9, pos := "law.go:66", after := #[{ on := 6, ground := Ground.data }], guard := none }) rfl (by kernel_rfl) (by kernel_rfl) (by kernel_rfl) (fun _ _ _ h => h) (by rfl) (fun w' hk => exec_convert rfl (conv_src (hs6.keeps hk (fun b hb => ⟨hb.2, by have := hgg; intro h; omega⟩)))) ?_
      simp only [Act.put, List.setIfInBounds_toArray, List.set_cons_zero, List.set_cons_succ]
      refine anyTakeE (i := 8) (oi := { dst := some 83, op := Op.binOp BinOp.eql 9 (Operand.tmp 78) (Operand.tmp 82) 9, type := 4, pos := "law.go:66", after := #[{ on := 3, ground := Ground.data }, { on := 7, ground := Ground.data }], guard := none }) rfl (by kernel_rfl) (by kernel_rfl) (by kernel_rfl) (fun _ _ _ _ h => h) (by rfl) ?_
      apply Exists.intro
      refine ⟨fun w' hk => ?_, ?_⟩
      · go_simp <;> with_reducible rfl
      simp only [Act.put, List.setIfInBounds_toArray, List.set_cons_zero, List.set_cons_succ]
      refine anyTakeE (i := 9) (oi := { dst := some 9, op := Op.assign (Operand.tmp 83), type := 4, pos := "law.go:66", after := #[{ on := 8, ground := Ground.data }, { on := 6, ground := Ground.chain }, { on := 0, ground := Ground.phase }, { on := 1, ground := Ground.phase }, { on := 2, ground := Ground.phase }, { on := 3, ground := Ground.phase }, { on := 4, ground := Ground.phase }, { on := 5, ground := Ground.phase }, { on := 6, ground := Ground.phase }, { on := 7, ground := Ground.phase }, { on := 8, ground := Ground.phase }], guard := none }) rfl (by kernel_rfl) (by kernel_rfl) (by kernel_rfl) (fun _ _ _ _ h => h) (by rfl) ?_
      apply Exists.intro
      refine ⟨fun w' hk => ?_, ?_⟩
      · go_simp <;> with_reducible rfl
      simp only [Act.put, List.setIfInBounds_toArray, List.set_cons_zero, List.set_cons_succ]
      refine anyDone (by kernel_rfl) ?_ _
      go_wp2_with fail
      clear CA CB F5 HA5 HT2 ho5 hg5 ha5 hs5 ho6 hg6 hb6 hs6 hgg z5 hwd
      rotate_left
      -- a digest
      have CA := Lib.hid (HT.out.a.digest hl9)
      have CB := Lib.hid (fun (w5 : World) (h : Rf w5 mid hi g2 l k e) => h.digest hl9)
      generalize takeS l k e 32 = r at *
      obtain ⟨out, kx, ex⟩ := r
      simp only at CA CB
      have heq := fun w => eq33_dc out w
      generalize dcells out = X at *
      go_wp2_with (first | (go_at_call 15; refine CA.out.mono ?_; rintro e5 w5 ⟨rfl, hg5, ha5⟩; have F5 := Lib.hid (HT.out.fst hg5); have HA5 := Lib.hid ha5; clear hg5 ha5) | (go_at_call 32; refine (CB.out _ F5.out.1).mono ?_; rintro e6 wx ⟨rfl, hg6, hb6⟩; have HX : Hid (Two w wx lo mid hi g g2 l kx ex) := Two.snd HA5.out F5.out.2 HT.out.base F5.out.1 hg6 hb6; clear hg6 hb6))
      clear CA CB F5 HA5 heq
      rotate_left
      all_goals
        clear HT HS1
        obtain ⟨A9, c9, hb9, _, hc9a, hc9b⟩ := HX.out.b.ex
        have cE : wx.drew.cell? ⟨g2, 1, none⟩ = some (.int .i64 ex) := hb9.c1
        have cB : wx.drew.cell? ⟨g2, 0, none⟩ = some (.slice A9 (l.length - kx) c9) := hb9.c0
        have hg9 : g2 < wx.drew.heap.size := hb9.lt
        have hcE : Hid (∀ w', Keeps (fun _ => False) wx.drew w' → w'.cell? ⟨g2, 1, none⟩ = some (.int .i64 ex)) := fun w' hk => (hk.cell (o := 1) hg9 (fun h => h)).trans cE
        have hcB : Hid (∀ w', Keeps (fun _ => False) wx.drew w' → w'.cell? ⟨g2, 0, none⟩ = some (.slice A9 (l.length - kx) c9)) := fun w' hk => (hk.cell (o := 0) hg9 (fun h => h)).trans cB
        clear hb9 cE cB hg9 hc9a hc9b
        have HY : Hid (Two w wx.drew lo mid hi g g2 l kx ex) := HX.out.far (grown_drew wx)
        have CE := Lib.hid HY.out.a.err
        have CL := Lib.hid (HY.out.a.left hl9)
        generalize hql : l.length - kx = ql at *
        clear hql
        refine anyStart (fun _ => False) (by kernel_rfl) ?_
        refine anyTakeE (i := 0) (oi := { dst := some 84, op := Op.move (Operand.tmp 9), type := 4, pos := "law.go:70", after := #[], guard := none }) rfl (by kernel_rfl) (by kernel_rfl) (by kernel_rfl) (fun _ _ _ _ h => h) (by rfl) ?_
        apply Exists.intro
        refine ⟨fun w' hk => ?_, ?_⟩
        · go_simp <;> with_reducible rfl
        simp only [Act.put, List.setIfInBounds_toArray, List.set_cons_zero, List.set_cons_succ]
        refine anyTakeE (i := 1) (oi := { dst := some 85, op := Op.unOp UnOp.not 4 (Operand.tmp 84), type := 4, pos := "law.go:70", after := #[{ on := 0, ground := Ground.data }], guard := none }) rfl (by kernel_rfl) (by kernel_rfl) (by kernel_rfl) (fun _ _ _ _ h => h) (by rfl) ?_
        apply Exists.intro
        refine ⟨fun w' hk => ?_, ?_⟩
        · go_simp <;> with_reducible rfl
        simp only [Act.put, List.setIfInBounds_toArray, List.set_cons_zero, List.set_cons_succ]
        refine anyTakeE (i := 2) (oi := { dst := some 86, op := Op.move (Operand.tmp 85), type := 4, pos := "law.go:70", after := #[{ on := 1, ground := Ground.data }], guard := none }) rfl (by kernel_rfl) (by kernel_rfl) (by kernel_rfl) (fun _ _ _ _ h => h) (by rfl) ?_
        apply Exists.intro
        refine ⟨fun w' hk => ?_, ?_⟩
        · go_simp <;> with_reducible rfl
        simp only [Act.put, List.setIfInBounds_toArray, List.set_cons_zero, List.set_cons_succ]
        refine anyTakeE (i := 3) (oi := { dst := some 87, op := Op.move (Operand.tmp 5), type := 22, pos := "law.go:70", after := #[{ on := 2, ground := Ground.guard }], guard := some (2, false) }) rfl (by kernel_rfl) (by kernel_rfl) (by kernel_rfl) (fun _ _ _ _ h => h) (by rfl) ?_
        apply Exists.intro
        refine ⟨fun w' hk => ?_, ?_⟩
        · go_simp <;> with_reducible rfl
        simp only [Act.put, List.setIfInBounds_toArray, List.set_cons_zero, List.set_cons_succ]
        refine anyTakeE (i := 5) (oi := { dst := some 89, op := Op.move (Operand.tmp 6), type := 42, pos := "law.go:70", after := #[{ on := 2, ground := Ground.guard }], guard := some (2, false) }) rfl (by kernel_rfl) (by kernel_rfl) (by kernel_rfl) (fun _ _ _ _ h => h) (by rfl) ?_
        apply Exists.intro
        refine ⟨fun w' hk => ?_, ?_⟩
        · go_simp <;> with_reducible rfl
        simp only [Act.put, List.setIfInBounds_toArray, List.set_cons_zero, List.set_cons_succ]
        refine anyTakeE (i := 6) (oi := { dst := some 90, op := Op.nilCheck (Operand.tmp 89), type := 0, pos := "law.go:70", after := #[{ on := 5, ground := Ground.data }, { on := 2, ground := Ground.guard }], guard := some (2, false) }) rfl (by kernel_rfl) (by kernel_rfl) (by kernel_rfl) (fun _ _ _ _ h => h) (by rfl) ?_
        apply Exists.intro
        refine ⟨fun w' hk => ?_, ?_⟩
        · go_simp <;> with_reducible rfl
        simp only [Act.put, List.setIfInBounds_toArray, List.set_cons_zero, List.set_cons_succ]
        refine anyTakeE (i := 7) (oi := { dst := some 91, op := Op.fieldAddr 47 (Operand.tmp 90) 1, type := 0, pos := "law.go:70", after := #[{ on := 6, ground := Ground.data }, { on := 2, ground := Ground.guard }], guard := some (2, false) }) rfl (by kernel_rfl) (by kernel_rfl) (by kernel_rfl) (fun _ _ _ _ h => h) (by rfl) ?_
        apply Exists.intro
        refine ⟨fun w' hk => ?_, ?_⟩
        · go_simp <;> with_reducible rfl
        simp only [Act.put, List.setIfInBounds_toArray, List.set_cons_zero, List.set_cons_succ]
        refine anyTakeE (i := 8) (oi := { dst := some 92, op := Op.load 30 (Operand.tmp 91), type := 30, pos := "law.go:70", after := #[{ on := 7, ground := Ground.data }, { on := 2, ground := Ground.guard }], guard := some (2, false) }) rfl (by kernel_rfl) (by kernel_rfl) (by kernel_rfl) (fun _ _ _ _ h => h) (by rfl) ?_
        apply Exists.intro
        refine ⟨fun w' hk => ?_, ?_⟩
        · have hc := hcE.out w' hk; go_simp <;> with_reducible rfl
        simp only [Act.put, List.setIfInBounds_toArray, List.set_cons_zero, List.set_cons_succ]
        refine anyCall (i := 4) (oi := { dst := some 88, op := Op.call { callee := Callee.value (Operand.func 17), args := #[Operand.tmp 87], argTypes := #[22] }, type := 30, pos := "law.go:70", after := #[{ on := 3, ground := Ground.data }, { on := 2, ground := Ground.chain }, { on := 2, ground := Ground.guard }], guard := some (2, false) }) rfl (by kernel_rfl) (by rfl) ?_ ((CE.out).mono ?_)
        · go_simp
        rintro e17 w17 ⟨rfl, rfl⟩
        refine ⟨_, rfl, Keeps.refl _ _, ?_⟩
        simp only [Act.put, List.setIfInBounds_toArray, List.set_cons_zero, List.set_cons_succ]
        refine anyTakeE (i := 9) (oi := { dst := some 93, op := Op.binOp BinOp.neq 30 (Operand.tmp 88) (Operand.tmp 92) 30, type := 4, pos := "law.go:70", after := #[{ on := 4, ground := Ground.data }, { on := 8, ground := Ground.data }, { on := 2, ground := Ground.guard }], guard := some (2, false) }) rfl (by kernel_rfl) (by kernel_rfl) (by kernel_rfl) (fun _ _ _ _ h => h) (by rfl) ?_
        apply Exists.intro
        refine ⟨fun w' hk => ?_, ?_⟩
        · go_simp <;> with_reducible rfl
        simp only [Act.put, List.setIfInBounds_toArray, List.set_cons_zero, List.set_cons_succ]
        refine anyTakeE (i := 10) (oi := { dst := some 94, op := Op.pick (Operand.tmp 86) (Operand.const (Value.bool true)) (Operand.tmp 93), type := 4, pos := "law.go:70", after := #[{ on := 2, ground := Ground.data }, { on := 9, ground := Ground.data }], guard := none }) rfl (by kernel_rfl) (by kernel_rfl) (by kernel_rfl) (fun _ _ _ _ h => h) (by rfl) ?_
        apply Exists.intro
        refine ⟨fun w' hk => ?_, ?_⟩
        · go_simp <;> with_reducible rfl
        simp only [Act.put, List.setIfInBounds_toArray, List.set_cons_zero, List.set_cons_succ]
        refine anyTakeE (i := 11) (oi := { dst := some 95, op := Op.move (Operand.tmp 94), type := 4, pos := "law.go:70", after := #[{ on := 10, ground := Ground.data }, { on := 4, ground := Ground.chain }], guard := none }) rfl (by kernel_rfl) (by kernel_rfl) (by kernel_rfl) (fun _ _ _ _ h => h) (by rfl) ?_
        apply Exists.intro
        refine ⟨fun w' hk => ?_, ?_⟩
        · go_simp <;> with_reducible rfl
        simp only [Act.put, List.setIfInBounds_toArray, List.set_cons_zero, List.set_cons_succ]
        refine anyTakeE (i := 12) (oi := { dst := some 96, op := Op.move (Operand.tmp 5), type := 22, pos := "law.go:70", after := #[{ on := 11, ground := Ground.guard }], guard := some (11, false) }) rfl (by kernel_rfl) (by kernel_rfl) (by kernel_rfl) (fun _ _ _ _ h => h) (by rfl) ?_
        apply Exists.intro
        refine ⟨fun w' hk => ?_, ?_⟩
        · go_simp <;> with_reducible rfl
        simp only [Act.put, List.setIfInBounds_toArray, List.set_cons_zero, List.set_cons_succ]
        refine anyTakeE (i := 14) (oi := { dst := some 98, op := Op.move (Operand.tmp 6), type := 42, pos := "law.go:70", after := #[{ on := 11, ground := Ground.guard }], guard := some (11, false) }) rfl (by kernel_rfl) (by kernel_rfl) (by kernel_rfl) (fun _ _ _ _ h => h) (by rfl) ?_
        apply Exists.intro
        refine ⟨fun w' hk => ?_, ?_⟩
        · go_simp <;> with_reducible rfl
        simp only [Act.put, List.setIfInBounds_toArray, List.set_cons_zero, List.set_cons_succ]
        refine anyTakeE (i := 15) (oi := { dst := some 99, op := Op.nilCheck (Operand.tmp 98), type := 0, pos := "law.go:70", after := #[{ on := 14, ground := Ground.data }, { on := 11, ground := Ground.guard }], guard := some (11, false) }) rfl (by kernel_rfl) (by kernel_rfl) (by kernel_rfl) (fun _ _ _ _ h => h) (by rfl) ?_
        apply Exists.intro
        refine ⟨fun w' hk => ?_, ?_⟩
        · go_simp <;> with_reducible rfl
        simp only [Act.put, List.setIfInBounds_toArray, List.set_cons_zero, List.set_cons_succ]
        refine anyTakeE (i := 16) (oi := { dst := some 100, op := Op.fieldAddr 47 (Operand.tmp 99) 0, type := 0, pos := "law.go:70", after := #[{ on := 15, ground := Ground.data }, { on := 11, ground := Ground.guard }], guard := some (11, false) }) rfl (by kernel_rfl) (by kernel_rfl) (by kernel_rfl) (fun _ _ _ _ h => h) (by rfl) ?_
        apply Exists.intro
        refine ⟨fun w' hk => ?_, ?_⟩
        · go_simp <;> with_reducible rfl
        simp only [Act.put, List.setIfInBounds_toArray, List.set_cons_zero, List.set_cons_succ]
        refine anyTakeE (i := 17) (oi := { dst := some 101, op := Op.load 24 (Operand.tmp 100), type := 24, pos := "law.go:70", after := #[{ on := 16, ground := Ground.data }, { on := 11, ground := Ground.guard }], guard := some (11, false) }) rfl (by kernel_rfl) (by kernel_rfl) (by kernel_rfl) (fun _ _ _ _ h => h) (by rfl) ?_
        apply Exists.intro
        refine ⟨fun w' hk => ?_, ?_⟩
        · have hc := hcB.out w' hk; go_simp <;> with_reducible rfl
        simp only [Act.put, List.setIfInBounds_toArray, List.set_cons_zero, List.set_cons_succ]
        refine anyTakeE (i := 18) (oi := { dst := some 102, op := Op.call { callee := Callee.builtin Builtin.len, args := #[Operand.tmp 101], argTypes := #[24] }, type := 3, pos := "law.go:70", after := #[{ on := 17, ground := Ground.data }, { on := 11, ground := Ground.guard }], guard := some (11, false) }) rfl (by kernel_rfl) (by kernel_rfl) (by kernel_rfl) (fun _ _ _ _ h => h) (by rfl) ?_
        apply Exists.intro
        refine ⟨fun w' hk => ?_, ?_⟩
        · go_simp <;> with_reducible rfl
        simp only [Act.put, List.setIfInBounds_toArray, List.set_cons_zero, List.set_cons_succ]
        refine anyCall (i := 13) (oi := { dst := some 97, op := Op.call { callee := Callee.value (Operand.func 13), args := #[Operand.tmp 96], argTypes := #[22] }, type := 3, pos := "law.go:70", after := #[{ on := 12, ground := Ground.data }, { on := 11, ground := Ground.chain }, { on := 11, ground := Ground.guard }], guard := some (11, false) }) rfl (by kernel_rfl) (by rfl) ?_ ((CL.out).mono ?_)
        · go_simp
        rintro e13 w13 ⟨rfl, q, rfl⟩
        refine ⟨_, rfl, Keeps.drewN _ _ _, ?_⟩
        simp only [Act.put, List.setIfInBounds_toArray, List.set_cons_zero, List.set_cons_succ]
        refine anyTakeE (i := 19) (oi := { dst := some 103, op := Op.binOp BinOp.neq 3 (Operand.tmp 97) (Operand.tmp 102) 3, type := 4, pos := "law.go:70", after := #[{ on := 13, ground := Ground.data }, { on := 18, ground := Ground.data }, { on := 11, ground := Ground.guard }], guard := some (11, false) }) rfl (by kernel_rfl) (by kernel_rfl) (by kernel_rfl) (fun _ _ _ _ h => h) (by rfl) ?_
        apply Exists.intro
        refine ⟨fun w' hk => ?_, ?_⟩
        · go_simp <;> with_reducible rfl
        simp only [Act.put, List.setIfInBounds_toArray, List.set_cons_zero, List.set_cons_succ]
        refine anyTakeE (i := 20) (oi := { dst := some 104, op := Op.pick (Operand.tmp 95) (Operand.const (Value.bool true)) (Operand.tmp 103), type := 4, pos := "law.go:70", after := #[{ on := 11, ground := Ground.data }, { on := 19, ground := Ground.data }], guard := none }) rfl (by kernel_rfl) (by kernel_rfl) (by kernel_rfl) (fun _ _ _ _ h => h) (by rfl) ?_
        apply Exists.intro
        refine ⟨fun w' hk => ?_, ?_⟩
        · go_simp <;> with_reducible rfl
        simp only [Act.put, List.setIfInBounds_toArray, List.set_cons_zero, List.set_cons_succ]
        refine anyDone (by kernel_rfl) ?_ _
        go_wp2
        go_roundw
        case rel => exact ⟨j + 1, kx, ex, by omega, by go_num, HX.out.far (grown_drewN _ _)⟩
        case measure => simp [intOf]; omega
    · have CE := Lib.hid (HT.out.a.end_ hl9)
      have CF := Lib.hid (fun (w5 : World) (h : Rf w5 mid hi g2 l k e) => h.end_ hl9)
      obtain rfl : j = zs.length := by omega
      generalize (if e = 0 then (if k < l.length then 4 else 0) else e) = v at *
      go_wp2_with (first | (go_at_call 14; refine CE.out.mono ?_; rintro e5 w5 ⟨rfl, q, rfl⟩) | (go_at_call 33; refine (CF.out _ (HT.out.far (grown_drewN _ q)).b).mono ?_; rintro e6 w6 ⟨rfl, rfl⟩))
      go_ret
      exact ⟨rfl, (HT.out.far (grown_drewN _ q)).old⟩

theorem walkLong (w : World) (A0 A1' : Option Addr) (n0 c0 n1 c1' : Nat) (h : 3000 < n0 ∨ 3000 < n1) (h0 : n0 ≤ 9223372036854775807) (h1 : n1 ≤ 9223372036854775807) :
    Calls Try.prog 5 #[.slice A0 n0 c0, .slice A1' n1 c1'] w fun e w' => e = .returned (.bool true) ∧ Below w.heap.size w w' := by
  have hd : ((3000 : Int) < (n0 : Int)) ∨ ((n0 : Int) ≤ 3000 ∧ (3000 : Int) < (n1 : Int)) := by omega
  rcases hd with hd | ⟨hd, hd'⟩
  all_goals
    go_enter Try.func5, Try.ntmps5
    go_wp2_with fail
    refine (lives_any w).mono ?_
    rintro e1 w1 ⟨rfl, hb1⟩
    go_wp2
    go_ret
    exact ⟨rfl, hb1⟩

theorem walk (a0 : Option Addr) (len0 cap0 : Nat) (z0 : List Int) (a1 : Option Addr) (len1 cap1 : Nat) (z1 : List Int) (w : World) (w0 : IsRow .u8 w a0 len0 cap0 z0) (w1 : IsRow .i64 w a1 len1 cap1 z1) :
    Calls Try.prog 5 #[.slice a0 len0 cap0, .slice a1 len1 cap1] w fun e w' => e = .returned (.bool true) ∧ Below w.heap.size w w' := by
  obtain ⟨h1, h2, l, hl⟩ := w0.bytes
  obtain ⟨h3, h4, hs⟩ := w1.src
  unfold maxLen at h2 h4
  by_cases h : len0 ≤ 3000 ∧ len1 ≤ 3000
  · refine walkB w a0 a1 len0 cap0 len1 cap1 l (z1.take len1) hl hs h.1 h.2 fun z hz => ?_
    have hw : (Lit.int .i64 z).wf = true := by
      rcases w1 with ⟨_, _, _, rfl⟩ | ⟨_, _, _, _, _, _, hwf⟩
      · simp at hz
      · exact hwf z (List.mem_of_mem_take hz)
    have := bounds_i64 hw
    omega
  · exact walkLong w a0 a1 len0 cap0 len1 cap1 (by omega) (by omega) (by omega)

set_option maxRecDepth 100000 in
theorem lifted (os : Os) (started : os.Started) (H : Type) (enc : TypeId × Value → H) :
    ReturnsInHanded {} Try.checked os 5 .any (Rows.octetScriptSpec.pre6 enc Try.prog Try.f5 Rows.octetScriptRow.domain false) (Rows.octetScriptSpec.post enc Try.prog Try.f5 false true false false) := by
  refine returnsInHanded_of_change (C := Try.checked) own started (by kernel_rfl) Try.func5
    (ChangeSpec.witness6 (enc := enc) (C := Try.checked) false ⟨#[], #[.slice none 0 0, .slice none 0 0], []⟩ 8 (by kernel_rfl) (by kernel_rfl) (by kernel_rfl) (by kernel_rfl)) ?_
  intro W base args ds gs before hval0 hW hcnd _
  have hval : ∀ (j : Nat) t v, Try.f5.params[j]? = some t → args[j]? = some v → Value.okWide Try.prog W .any base t v := hval0
  have hW' := hW
  obtain ⟨p, q, hA0, hV, rfl, hfz, hnd⟩ := hW
  have hA : DataW.TrodAll enc Try.prog W 0 (fun _ => true) true Try.f5.params.toList args.toList ds p := hA0
  rw [Try.params5] at hA hval
  obtain ⟨v0, vs0, d0, ds0, p0, q0, hargs, rfl, rfl, h0, r0⟩ := trodAll_cons hA
  obtain ⟨v1, vs1, d1, ds1, p1, q1, rfl, rfl, rfl, h1, r1⟩ := trodAll_cons r0
  obtain ⟨rfl, rfl, rfl⟩ := trodAll_nil r1
  obtain rfl : args = #[v0, v1] := by cases args; simp_all
  obtain ⟨rfl, rfl⟩ := trodVars_none hV
  obtain ⟨a0, len0, cap0, rfl⟩ := okWide_slice Try.underlying24 (hval 0 24 v0 rfl rfl)
  have k0 := h0
  have lt0 : ∀ x ∈ p0, x.block < W.heap.size := by obtain ⟨m, hm⟩ := k0; exact DataW.trod_lt m _ _ _ hm
  obtain ⟨z0, w0⟩ : ∃ zs, IsRow .u8 W a0 len0 cap0 zs := by
    obtain ⟨fuel, hf⟩ := h0
    rcases open_ints Try.underlying24 Try.underlying5 (by kernel_rfl) hf with ⟨hcs, _⟩ | ⟨x, l, c, zs, hcs, _, hl, hm, hz, _, hcell, hwz⟩
    · simp [Value.cells] at hcs
      obtain ⟨rfl, rfl, rfl⟩ := hcs
      exact ⟨[], .inl ⟨rfl, rfl, rfl, rfl⟩⟩
    · simp [Value.cells] at hcs
      obtain ⟨rfl, rfl, rfl⟩ := hcs
      exact ⟨zs, .inr ⟨_, rfl, hl, hm, by simpa using hz, hcell, hwz⟩⟩
  obtain ⟨a1, len1, cap1, rfl⟩ := okWide_slice Try.underlying41 (hval 1 41 v1 rfl rfl)
  have k1 := h1
  have lt1 : ∀ x ∈ p1, x.block < W.heap.size := by obtain ⟨m, hm⟩ := k1; exact DataW.trod_lt m _ _ _ hm
  obtain ⟨z1, w1⟩ : ∃ zs, IsRow .i64 W a1 len1 cap1 zs := by
    obtain ⟨fuel, hf⟩ := h1
    rcases open_ints Try.underlying41 Try.underlying3 (by kernel_rfl) hf with ⟨hcs, _⟩ | ⟨x, l, c, zs, hcs, _, hl, hm, hz, _, hcell, hwz⟩
    · simp [Value.cells] at hcs
      obtain ⟨rfl, rfl, rfl⟩ := hcs
      exact ⟨[], .inl ⟨rfl, rfl, rfl, rfl⟩⟩
    · simp [Value.cells] at hcs
      obtain ⟨rfl, rfl, rfl⟩ := hcs
      exact ⟨zs, .inr ⟨_, rfl, hl, hm, by simpa using hz, hcell, hwz⟩⟩
  clear hA0 hval0
  refine (walk a0 len0 cap0 z0 a1 len1 cap1 z1 W w0 w1).mono fun e W' ⟨he, bel⟩ => ?_
  subst he
  exact ⟨_, rfl, _, _, _, [], _, [], hW', trodAll_mk1 (shut_bool Try.underlying4 _), (trodAll_cons_mk (Below.trod laidOut (by kernel_rfl) (of_decide_eq_true (by kernel_rfl)) k0 bel lt0) (trodAll_cons_mk (Below.trod laidOut (by kernel_rfl) (of_decide_eq_true (by kernel_rfl)) k1 bel lt1) trodAll_mk0)), rfl, bel.frame _, fun h => by cases h⟩

theorem over : Rows.octetScriptRow.holds Try.pinned (OpenSpec.ofChange Rows.octetScriptSpec) :=
  OpenClaim.holds_of_wide 5 Try.f5 rfl rfl rfl rfl rfl rfl rfl ⟨rfl, rfl, rfl, rfl, rfl⟩ rfl rfl rfl rfl rfl (by kernel_rfl) Try.func5 (by kernel_rfl)
    (of_decide_eq_true (by kernel_rfl)) (by unfold Func.isWrapper; first | (rw [if_pos (by decide +kernel)]; kernel_rfl) | (rw [if_neg (by decide +kernel)]; exact ⟨rfl, rfl⟩))
    (fun os started H enc _ => lifted os started H enc)

/-- The statement. -/
theorem proved : Rows.OctetScriptSaid := over
#print axioms proved
end Go.Proofs.Ytbcalhhfcnbppaa.octetScript
