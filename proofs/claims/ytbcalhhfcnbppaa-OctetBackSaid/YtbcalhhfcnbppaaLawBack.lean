/- It is proved that OctetBack returns true for all bytes, numbers, digests and sizes: what was written one after the other is read back, and nothing is left; whatever is read from any bytes is written as exactly these. Conditions: none. -/
import Derived.Test.YtbcalhhfcnbppaaRows
import Derived.Test.YtbcalhhfcnbppaaI
import Derived.Test.YtbcalhhfcnbppaaO
import Derived.Test.YtbcalhhfcnbppaaP
import Derived.Test.YtbcalhhfcnbppaaQ
import Derived.ProofKit
import Derived.OpenShut
import Derived.ChangeOld
namespace Go.Proofs.Ytbcalhhfcnbppaa.octetBack
open Go.ChangeShapes Go.WideShapes Go.ChangeAt Go.RowKit
set_option linter.unusedVariables false
set_option linter.unusedSimpArgs false

theorem own : ownKnob Try.prog.godebug = none := by kernel_rfl
theorem laidOut : laidOutB Try.prog = true := by kernel_rfl

theorem src_cells_at {w : World} {S : Nat → Prop} {b o n : Nat} {xs : List Value} (h : Src w S (some ⟨b, o, none⟩) n xs) (i : Nat) (u : Value) (hu : xs[i]? = some u) : w.cell? ⟨b, o + i, none⟩ = some u := by
  have hi := (List.getElem?_eq_some_iff.1 hu).1
  have hl := h.len
  obtain ⟨b', o', e, _, hc⟩ := h.lies (by omega)
  injection e with e
  injection e with e1 e2
  subst e1; subst e2
  rw [hc i (by omega)]
  exact hu

set_option maxRecDepth 100000 in
set_option maxHeartbeats 8000000 in
theorem walkB (w : World) (Ab Ap : Option Addr) (nb cb np cp : Nat) (l p d : List UInt8) (n m : Nat) (size : Int) (hb : Src w (· < w.heap.size) Ab nb (bcs l)) (hp : Src w (· < w.heap.size) Ap np (bcs p))
    (hcb : nb ≤ cb) (hn0 : nb ≤ 3000) (hn1 : np ≤ 3000) (hn : n < 18446744073709551616) (hm : m < 18446744073709551616) (hd : d.length = 32) (hsz : -9223372036854775808 ≤ size ∧ size ≤ 9223372036854775807) :
    Calls Try.prog 7 #[.slice Ab nb cb, .slice Ap np cp, .int .u64 n, .int .u64 m, .agg (bcs d).toArray, .int .i64 size] w fun e w' => e = .returned (.bool true) ∧ Below w.heap.size w w' := by
  obtain ⟨i0, hi, hz0, hz1, hz2⟩ := info_parts info5
  have hl := src_len hb
  have hlp := src_len hp
  subst hl
  subst hlp
  go_enter Try.func7, Try.ntmps7
  have Hd := Lib.hid hd
  clear hd
  go_wp2_with fail
  refine (lives_any (w.alloc (.cells (bcs d).toArray 33))).mono ?_
  rintro e1 w1 ⟨rfl, hb1⟩
  have hN : (w.alloc (.cells (bcs d).toArray 33)).heap.size = w.heap.size + 1 := by simp
  rw [hN] at hb1
  clear hN
  have hsb1 := ((hb.alloc (fun _ h => h) (.cells (bcs d).toArray 33)).weak (S' := (· < w.heap.size + 1)) (fun _ h => by omega)).below (S' := (· < w.heap.size + 1)) hb1 (fun _ h => h)
  have hsp1 := ((hp.alloc (fun _ h => h) (.cells (bcs d).toArray 33)).weak (S' := (· < w.heap.size + 1)) (fun _ h => by omega)).below (S' := (· < w.heap.size + 1)) hb1 (fun _ h => h)
  have hsd1 := (Src.lit w (bcs d).toArray 33 d (by simp)).below (S' := (· < w.heap.size + 1)) hb1 (fun _ h => h)
  have HB1 : Below w.heap.size w w1 := ((Below.refl _ w).alloc (Nat.le_refl _) _).trans (hb1.mono (by omega))
  have hz1 : w.heap.size + 1 ≤ w1.heap.size := by have := hb1.size; simp at this; omega
  clear hb1 hb hp
  go_wp2_with fail
  refine anyStart (fun b => w1.heap.size ≤ b) (by kernel_rfl) ?_
  obtain ⟨w2, hw2⟩ : ∃ w2, w2 = w1.drew := ⟨_, rfl⟩
  have hsb : Src w2 (· < w.heap.size + 1) Ab l.length (bcs l) := by rw [hw2]; exact ⟨hsb1.len, hsb1.lies⟩
  have hsp : Src w2 (· < w.heap.size + 1) Ap p.length (bcs p) := by rw [hw2]; exact ⟨hsp1.len, hsp1.lies⟩
  have hsd : Src w2 (· < w.heap.size + 1) (some ⟨w.heap.size, 0, none⟩) 32 (bcs d) := by rw [hw2]; have := Hd.out; rw [this] at hsd1; exact ⟨hsd1.len, hsd1.lies⟩
  have hw : ∀ b, b < w.heap.size + 1 → b < w2.heap.size := fun b hb => by rw [hw2]; exact Nat.lt_of_lt_of_le hb hz1
  have HB2 : Below w.heap.size w w2 := by rw [hw2]; exact HB1.drew
  have hz2' : w.heap.size + 1 ≤ w2.heap.size := by rw [hw2]; exact hz1
  have hz12 : w1.heap.size = w2.heap.size := by rw [hw2]; rfl
  rw [← hw2]
  clear hsb1 hsp1 hsd1 HB1 hz1 hw2
  have en := encN_len n
  have em := encN_len m
  have ep := encN_len p.length
  have sn := sz_le n
  have sm := sz_le m
  have sp := sz_le p.length
  have k8 := wsz_le size
  have b0 : (encN n).length ≤ 9 := by omega
  have b1 : (encN n ++ encN p.length ++ p).length ≤ 3018 := by simp only [List.length_append]; omega
  have b2 : (encN n ++ encN p.length ++ p ++ encN m).length ≤ 3027 := by simp only [List.length_append] at b1 ⊢; omega
  have b3 : (encN n ++ encN p.length ++ p ++ encN m ++ le m (wsz size)).length ≤ 3035 := by simp only [List.length_append, le_len] at b2 ⊢; omega
  clear en em ep sn sm sp k8
  refine anyTakeE (i := 0) (oi := { dst := some 31, op := Op.move (Operand.tmp 2), type := 25, pos := "law.go:96", after := #[], guard := none }) rfl (by kernel_rfl) (by kernel_rfl) (by kernel_rfl) (fun _ _ _ _ h => h) (by rfl) ?_
  apply Exists.intro
  refine ⟨fun w' hk => ?_, ?_⟩
  · go_simp <;> with_reducible rfl
  simp only [Act.put, List.setIfInBounds_toArray, List.set_cons_zero, List.set_cons_succ]
  refine anyTakeE (i := 2) (oi := { dst := some 33, op := Op.move (Operand.tmp 1), type := 24, pos := "law.go:96", after := #[], guard := none }) rfl (by kernel_rfl) (by kernel_rfl) (by kernel_rfl) (fun _ _ _ _ h => h) (by rfl) ?_
  apply Exists.intro
  refine ⟨fun w' hk => ?_, ?_⟩
  · go_simp <;> with_reducible rfl
  simp only [Act.put, List.setIfInBounds_toArray, List.set_cons_zero, List.set_cons_succ]
  refine anyTakeE (i := 4) (oi := { dst := some 35, op := Op.move (Operand.tmp 3), type := 25, pos := "law.go:96", after := #[], guard := none }) rfl (by kernel_rfl) (by kernel_rfl) (by kernel_rfl) (fun _ _ _ _ h => h) (by rfl) ?_
  apply Exists.intro
  refine ⟨fun w' hk => ?_, ?_⟩
  · go_simp <;> with_reducible rfl
  simp only [Act.put, List.setIfInBounds_toArray, List.set_cons_zero, List.set_cons_succ]
  refine anyTakeE (i := 6) (oi := { dst := some 37, op := Op.move (Operand.tmp 3), type := 25, pos := "law.go:96", after := #[], guard := none }) rfl (by kernel_rfl) (by kernel_rfl) (by kernel_rfl) (fun _ _ _ _ h => h) (by rfl) ?_
  apply Exists.intro
  refine ⟨fun w' hk => ?_, ?_⟩
  · go_simp <;> with_reducible rfl
  simp only [Act.put, List.setIfInBounds_toArray, List.set_cons_zero, List.set_cons_succ]
  refine anyTakeE (i := 7) (oi := { dst := some 38, op := Op.move (Operand.tmp 5), type := 3, pos := "law.go:96", after := #[], guard := none }) rfl (by kernel_rfl) (by kernel_rfl) (by kernel_rfl) (fun _ _ _ _ h => h) (by rfl) ?_
  apply Exists.intro
  refine ⟨fun w' hk => ?_, ?_⟩
  · go_simp <;> with_reducible rfl
  simp only [Act.put, List.setIfInBounds_toArray, List.set_cons_zero, List.set_cons_succ]
  refine anyTakeE (i := 9) (oi := { dst := some 40, op := Op.slice 33 (Operand.tmp 10) none none none, type := 24, pos := "law.go:96", after := #[], guard := none }) rfl (by kernel_rfl) (by kernel_rfl) (by kernel_rfl) (fun _ _ _ _ h => h) (by rfl) ?_
  apply Exists.intro
  refine ⟨fun w' hk => ?_, ?_⟩
  · go_simp <;> with_reducible rfl
  simp only [Act.put, List.setIfInBounds_toArray, List.set_cons_zero, List.set_cons_succ]
  refine anyCall (i := 1) (oi := { dst := some 32, op := Op.call { callee := Callee.value (Operand.func 19), args := #[Operand.const (Value.slice none 0 0), Operand.tmp 31], argTypes := #[24, 25] }, type := 24, pos := "law.go:96", after := #[{ on := 0, ground := Ground.data }], guard := none }) rfl (by kernel_rfl) (by rfl) ?_ ((number_any w2 (fun _ => False) none 0 0 [] n (Src.nil_ _ _ _) (fun _ h => h.elim) (by omega) hn).mono ?_)
  · go_simp
  rintro e1 w3 ⟨u1, rfl, ho1, hb1⟩
  rw [List.nil_append] at ho1
  obtain ⟨A1, c1, rfl, _, _, hs1⟩ := own_shape ho1
  have K3 : Below w2.heap.size w2 w3 := hb1
  have z3 := hb1.size
  refine ⟨_, rfl, Keeps.of_below hb1, ?_⟩
  simp only [Act.put, List.setIfInBounds_toArray, List.set_cons_zero, List.set_cons_succ]
  refine anyCall (i := 3) (oi := { dst := some 34, op := Op.call { callee := Callee.value (Operand.func 22), args := #[Operand.tmp 32, Operand.tmp 33], argTypes := #[24, 24] }, type := 24, pos := "law.go:96", after := #[{ on := 1, ground := Ground.data }, { on := 2, ground := Ground.data }, { on := 1, ground := Ground.chain }], guard := none }) rfl (by kernel_rfl) (by rfl) ?_ ((block_any w3 (· < w3.heap.size) A1 Ap (encN n).length c1 p.length cp (encN n) p (hs1.weak (fun b hb => hb.2)) (((hsp.weak hw).below (S' := (· < w2.heap.size)) K3 (fun _ h => h)).weak (fun b hb => by omega)) (fun b hb => hb) (by omega) (by omega)).mono ?_)
  · go_simp
  rintro e3 w4 ⟨u3, rfl, ho3, hb3⟩
  obtain ⟨A3, c3, rfl, _, _, hs3⟩ := own_shape ho3
  have K4 : Below w2.heap.size w2 w4 := K3.trans (hb3.mono z3)
  have z4 : w2.heap.size ≤ w4.heap.size := K4.size
  refine ⟨_, rfl, Keeps.of_below hb3, ?_⟩
  simp only [Act.put, List.setIfInBounds_toArray, List.set_cons_zero, List.set_cons_succ]
  refine anyCall (i := 5) (oi := { dst := some 36, op := Op.call { callee := Callee.value (Operand.func 19), args := #[Operand.tmp 34, Operand.tmp 35], argTypes := #[24, 25] }, type := 24, pos := "law.go:96", after := #[{ on := 3, ground := Ground.data }, { on := 4, ground := Ground.data }, { on := 3, ground := Ground.chain }], guard := none }) rfl (by kernel_rfl) (by rfl) ?_ ((number_any w4 _ A3 _ c3 (encN n ++ encN p.length ++ p) m hs3 (fun b hb => hb.2) (by omega) hm).mono ?_)
  · go_simp
  rintro e5 w5 ⟨u5, rfl, ho5, hb5⟩
  obtain ⟨A5, c5, rfl, _, _, hs5⟩ := own_shape ho5
  have K5 : Below w2.heap.size w2 w5 := K4.trans (hb5.mono z4)
  have z5 : w2.heap.size ≤ w5.heap.size := K5.size
  refine ⟨_, rfl, Keeps.of_below hb5, ?_⟩
  simp only [Act.put, List.setIfInBounds_toArray, List.set_cons_zero, List.set_cons_succ]
  refine anyCall (i := 8) (oi := { dst := some 39, op := Op.call { callee := Callee.value (Operand.func 18), args := #[Operand.tmp 36, Operand.tmp 37, Operand.tmp 38], argTypes := #[24, 25, 3] }, type := 24, pos := "law.go:96", after := #[{ on := 5, ground := Ground.data }, { on := 6, ground := Ground.data }, { on := 7, ground := Ground.data }, { on := 5, ground := Ground.chain }], guard := none }) rfl (by kernel_rfl) (by rfl) ?_ ((word_any w5 _ A5 _ c5 (encN n ++ encN p.length ++ p ++ encN m) m size hs5 (fun b hb => hb.2) (by omega) hm).mono ?_)
  · go_simp
  rintro e8 w6 ⟨u8, rfl, ho8, hb8⟩
  have K6 : Below w2.heap.size w2 w6 := K5.trans (hb8.mono z5)
  have z6 : w2.heap.size ≤ w6.heap.size := K6.size
  have z56 := hb8.size
  have hsd6 := (hsd.weak hw).below (S' := (· < w2.heap.size)) K6 (fun _ h => h)
  refine ⟨_, rfl, Keeps.of_below hb8, ?_⟩
  simp only [Act.put, List.setIfInBounds_toArray, List.set_cons_zero, List.set_cons_succ]
  refine anyOp (i := 10) rfl (by kernel_rfl) (by rfl) (wp_app (.tmp 39) (.tmp 40) 24 rfl w5.heap.size 5 i0 (.int .u8 0) 1 Try.underlying24 hi hz0 hz1 hz2 rfl _ _ _ rfl ho8 _ _ _ _ _ rfl hsd6 (bcs_one _) (by unfold maxLen; omega) (by omega) z56 ?_)
  intro v7 w7 ho7 hg7
  have HO7 := own_as ho7 (encN n ++ encN p.length ++ p ++ encN m ++ le m (wsz size) ++ d) (by simp [bcs_append])
  have hb7 : Below w5.heap.size w6 w7 := (Below.refl _ _).grown hg7 z56 (fun r hr => (ho8.lt r hr).1)
  refine ⟨Keeps.of_grown hg7 (fun r hr => by have := (ho8.lt r hr).1; omega), ?_⟩
  simp only [Act.put, List.setIfInBounds_toArray, List.set_cons_zero, List.set_cons_succ]
  refine anyTakeE (i := 11) (oi := { dst := some 13, op := Op.assign (Operand.tmp 41), type := 24, pos := "law.go:96", after := #[{ on := 10, ground := Ground.data }, { on := 10, ground := Ground.chain }, { on := 0, ground := Ground.phase }, { on := 1, ground := Ground.phase }, { on := 2, ground := Ground.phase }, { on := 3, ground := Ground.phase }, { on := 4, ground := Ground.phase }, { on := 5, ground := Ground.phase }, { on := 6, ground := Ground.phase }, { on := 7, ground := Ground.phase }, { on := 8, ground := Ground.phase }, { on := 9, ground := Ground.phase }, { on := 10, ground := Ground.phase }], guard := none }) rfl (by kernel_rfl) (by kernel_rfl) (by kernel_rfl) (fun _ _ _ _ h => h) (by rfl) ?_
  apply Exists.intro
  refine ⟨fun w' hk => ?_, ?_⟩
  · go_simp <;> with_reducible rfl
  simp only [Act.put, List.setIfInBounds_toArray, List.set_cons_zero, List.set_cons_succ]
  refine anyDone (by kernel_rfl) ?_ _
  have KB : Hid (Below w.heap.size w w7) := (HB2.trans (K6.mono (by omega))).trans (hb7.mono (by omega))
  have KB2 : Hid (Below w2.heap.size w2 w7) := K6.trans (hb7.mono (by omega))
  have HX := Lib.hid HO7
  have z7 : w2.heap.size ≤ w7.heap.size := by have := hb7.size; omega
  clear hb1 ho1 hs1 K3 hb3 ho3 hs3 K4 hb5 ho5 hs5 K5 hb8 ho8 K6 hsd6 ho7 hg7 HO7 hb7 z3 z4 z5 z6 z56 hi hz0 hz1 hz2 i0
  have hsb7 := (hsb.weak hw).below (S' := (· < w2.heap.size)) KB2.out (fun _ h => h)
  have hsp7 := (hsp.weak hw).below (S' := (· < w2.heap.size)) KB2.out (fun _ h => h)
  have hsd7 := (hsd.weak hw).below (S' := (· < w2.heap.size)) KB2.out (fun _ h => h)
  clear hsb hsp hsd KB2 HB2
  have hk1 := wsz_pos size
  have hk8 := wsz_le size
  have hws : min (max size 1) 8 = ((wsz size : Nat) : Int) := by unfold wsz; omega
  obtain ⟨X, hX⟩ : ∃ X, X = encN n ++ encN p.length ++ p ++ encN m ++ le m (wsz size) ++ d := ⟨_, rfl⟩
  have N1 : Hid (numS X 0 0 = (n, sz n, 0)) := by
    have := num_at [] (encN p.length ++ (p ++ (encN m ++ (le m (wsz size) ++ d)))) n hn
    simp only [List.nil_append, List.length_nil, Nat.zero_add] at this
    rw [hX]; simp only [List.append_assoc]; exact this
  have BK : Hid (blkS X (sz n) 0 = (p, sz n + sz p.length + p.length, 0)) := by
    have := blk_at (encN n) p (encN m ++ (le m (wsz size) ++ d)) (by omega)
    rw [encN_len] at this
    rw [hX]; simp only [List.append_assoc]; exact this
  have N2 : Hid (numS X (sz n + sz p.length + p.length) 0 = (m, sz n + sz p.length + p.length + sz m, 0)) := by
    have := num_at (encN n ++ (encN p.length ++ p)) (le m (wsz size) ++ d) m hm
    simp only [List.length_append, encN_len, ← Nat.add_assoc] at this
    rw [hX]; simp only [List.append_assoc] at this ⊢; exact this
  have WD : Hid (takeS X (sz n + sz p.length + p.length + sz m) 0 (wsz size) = (le m (wsz size), sz n + sz p.length + p.length + sz m + wsz size, 0)) := by
    have := take_at (encN n ++ (encN p.length ++ (p ++ encN m))) (le m (wsz size)) d
    simp only [List.length_append, encN_len, le_len, ← Nat.add_assoc] at this
    rw [hX]; simp only [List.append_assoc] at this ⊢; exact this
  have DG : Hid (takeS X (sz n + sz p.length + p.length + sz m + wsz size) 0 32 = (d, sz n + sz p.length + p.length + sz m + wsz size + 32, 0)) := by
    have := take_at (encN n ++ (encN p.length ++ (p ++ (encN m ++ le m (wsz size))))) d []
    simp only [List.length_append, encN_len, le_len, ← Nat.add_assoc, Hd.out, List.append_nil] at this
    rw [hX]; simp only [List.append_assoc] at this ⊢; exact this
  have hXl : X.length = sz n + sz p.length + p.length + sz m + wsz size + 32 := by
    rw [hX]; simp only [List.length_append, encN_len, le_len, Hd.out]
  have hlX : X.length ≤ 1000000000 := by
    have := sz_le n; have := sz_le m; have := sz_le p.length; omega
  have DC : Hid (dcells d = (bcs d).toArray) := by unfold dcells; rw [if_pos Hd.out]; exact rfl
  have hm1 := mask_at (wsz size) hk1 hk8
  have hm2 := and_at m (wsz size) hm hk8
  have hm3 := lev_le m (wsz size)
  rw [← hX] at HX
  clear hX b0 b1 b2 b3
  have HXl := Lib.hid hXl
  have hend : ¬ (sz n + sz p.length + p.length + sz m + wsz size + 32 < X.length) := by omega
  clear hXl
  obtain ⟨A7, c7, rfl, _, _, hs7⟩ := own_shape HX.out
  generalize le m (wsz size) = LE at *
  generalize (256 ^ wsz size - 1 : Nat) = MK at *
  generalize hM : m % 256 ^ wsz size = MV at *
  clear hM
  generalize sz n + sz p.length + p.length + sz m + wsz size + 32 = k5 at *
  generalize sz n + sz p.length + p.length + sz m + wsz size = k4 at *
  generalize sz n + sz p.length + p.length + sz m = k3 at *
  generalize sz n + sz p.length + p.length = k2 at *
  generalize sz n = k1 at *
  have CW : Hid (∀ (W : World) (lo hi g : Nat), Rdr W lo hi g X k3 0 → Calls Try.prog 11 #[.pointer (some ⟨g, 0, none⟩), .int .i64 size] W (RdGives W lo hi g X (.int .u64 (MV : Int)) k4 0)) := by
    intro W lo hi g hr
    have := hr.word hlX size
    rw [WD.out] at this
    simp only [hm3] at this
    exact this
  clear WD hm3
  generalize wsz size = ws at *
  go_wp2_with fail
  refine (read_any w7 _ A7 _ c7 X (hs7.weak (S' := (· < w7.heap.size)) (fun b hb => hb.2)) (fun b hb => hb) hlX).mono ?_
  rintro e8 w8 ⟨g, rfl, hr8, hb8⟩
  have R8 := Lib.hid hr8
  have gl := hr8.lo_le
  have gh := hr8.g_lt
  have KB8 : Hid (Below w.heap.size w w8) := KB.out.trans (hb8.mono (by have := KB.out.size; omega))
  have z8 := hb8.size
  have hsb8 := (hsb7.weak (S' := (· < w7.heap.size)) (fun b hb => by omega)).below (S' := (· < w7.heap.size)) hb8 (fun _ h => h)
  have hsp8 := (hsp7.weak (S' := (· < w7.heap.size)) (fun b hb => by omega)).below (S' := (· < w7.heap.size)) hb8 (fun _ h => h)
  have hsd8 := (hsd7.weak (S' := (· < w7.heap.size)) (fun b hb => by omega)).below (S' := (· < w7.heap.size)) hb8 (fun _ h => h)
  clear hr8 hb8 hs7 hsb7 hsp7 hsd7 HX KB
  go_wp2_with fail
  refine anyStart (fun b => b = g) (by kernel_rfl) ?_
  obtain ⟨w9, hw9⟩ : ∃ w9, w9 = w8.drew := ⟨_, rfl⟩
  have hsb9 : Src w9 (· < w7.heap.size) Ab l.length (bcs l) := by rw [hw9]; exact ⟨hsb8.len, hsb8.lies⟩
  have hsp9 : Src w9 (· < w7.heap.size) Ap p.length (bcs p) := by rw [hw9]; exact ⟨hsp8.len, hsp8.lies⟩
  have hsd9 : Src w9 (· < w7.heap.size) (some ⟨w.heap.size, 0, none⟩) 32 (bcs d) := by rw [hw9]; exact ⟨hsd8.len, hsd8.lies⟩
  have R9 : Hid (Rdr w9 w7.heap.size w8.heap.size g X 0 0) := by rw [hw9]; exact R8.out.far (row := none) ⟨rfl, rfl, rfl, Nat.le_refl _, fun _ _ _ => rfl⟩ (by simp)
  have KB9 : Hid (Below w.heap.size w w9) := by rw [hw9]; exact KB8.out.drew
  have z9 : w8.heap.size = w9.heap.size := by rw [hw9]; rfl
  rw [← hw9]
  clear hsb8 hsp8 hsd8 R8 KB8 hw9
  have KPcur := Keeps.refl (fun b => b = g) w9
  have heq := fun w => eq33 d d Hd.out Hd.out w
  simp only [decide_true] at heq
  refine anyTakeE (i := 0) (oi := { dst := some 52, op := Op.move (Operand.tmp 14), type := 22, pos := "law.go:100", after := #[], guard := none }) rfl (by kernel_rfl) (by kernel_rfl) (by kernel_rfl) (fun _ _ _ _ h => h) (by rfl) ?_
  apply Exists.intro
  refine ⟨fun w' hk => ?_, ?_⟩
  · go_simp <;> with_reducible rfl
  simp only [Act.put, List.setIfInBounds_toArray, List.set_cons_zero, List.set_cons_succ]
  refine anyTakeE (i := 2) (oi := { dst := some 54, op := Op.move (Operand.tmp 2), type := 25, pos := "law.go:100", after := #[], guard := none }) rfl (by kernel_rfl) (by kernel_rfl) (by kernel_rfl) (fun _ _ _ _ h => h) (by rfl) ?_
  apply Exists.intro
  refine ⟨fun w' hk => ?_, ?_⟩
  · go_simp <;> with_reducible rfl
  simp only [Act.put, List.setIfInBounds_toArray, List.set_cons_zero, List.set_cons_succ]
  have C1 := R9.out.num hlX
  rw [N1.out] at C1
  refine anyCall (i := 1) (oi := { dst := some 53, op := Op.call { callee := Callee.value (Operand.func 10), args := #[Operand.tmp 52], argTypes := #[22] }, type := 25, pos := "law.go:100", after := #[{ on := 0, ground := Ground.data }], guard := none }) rfl (by kernel_rfl) (by rfl) ?_ ((C1).mono ?_)
  · go_simp
  rintro e1 w10 ⟨rfl, hg1, hr1⟩
  have R1 := Lib.hid hr1
  have KP1 : Keeps (fun b => b = g) w9 w10 := KPcur.trans (Keeps.of_grown hg1 (fun r hr => by injection hr with hr; exact hr.symm))
  clear KPcur
  have KPcur := KP1
  clear KP1
  have zz1 := hg1.size
  refine ⟨_, rfl, Keeps.of_grown hg1 (fun r hr => by injection hr with hr; exact hr.symm), ?_⟩
  clear hr1 hg1
  simp only [Act.put, List.setIfInBounds_toArray, List.set_cons_zero, List.set_cons_succ]
  refine anyTakeE (i := 3) (oi := { dst := some 55, op := Op.binOp BinOp.neq 25 (Operand.tmp 53) (Operand.tmp 54) 25, type := 4, pos := "law.go:100", after := #[{ on := 1, ground := Ground.data }, { on := 2, ground := Ground.data }], guard := none }) rfl (by kernel_rfl) (by kernel_rfl) (by kernel_rfl) (fun _ _ _ _ h => h) (by rfl) ?_
  apply Exists.intro
  refine ⟨fun w' hk => ?_, ?_⟩
  · go_simp <;> with_reducible rfl
  simp only [Act.put, List.setIfInBounds_toArray, List.set_cons_zero, List.set_cons_succ]
  refine anyTakeE (i := 4) (oi := { dst := some 56, op := Op.move (Operand.tmp 55), type := 4, pos := "law.go:100", after := #[{ on := 3, ground := Ground.data }, { on := 1, ground := Ground.chain }], guard := none }) rfl (by kernel_rfl) (by kernel_rfl) (by kernel_rfl) (fun _ _ _ _ h => h) (by rfl) ?_
  apply Exists.intro
  refine ⟨fun w' hk => ?_, ?_⟩
  · go_simp <;> with_reducible rfl
  simp only [Act.put, List.setIfInBounds_toArray, List.set_cons_zero, List.set_cons_succ]
  refine anyTakeE (i := 5) (oi := { dst := some 57, op := Op.move (Operand.tmp 14), type := 22, pos := "law.go:100", after := #[{ on := 4, ground := Ground.guard }], guard := some (4, false) }) rfl (by kernel_rfl) (by kernel_rfl) (by kernel_rfl) (fun _ _ _ _ h => h) (by rfl) ?_
  apply Exists.intro
  refine ⟨fun w' hk => ?_, ?_⟩
  · go_simp <;> with_reducible rfl
  simp only [Act.put, List.setIfInBounds_toArray, List.set_cons_zero, List.set_cons_succ]
  refine anyTakeE (i := 8) (oi := { dst := some 60, op := Op.move (Operand.tmp 1), type := 24, pos := "law.go:100", after := #[{ on := 4, ground := Ground.guard }], guard := some (4, false) }) rfl (by kernel_rfl) (by kernel_rfl) (by kernel_rfl) (fun _ _ _ _ h => h) (by rfl) ?_
  apply Exists.intro
  refine ⟨fun w' hk => ?_, ?_⟩
  · go_simp <;> with_reducible rfl
  simp only [Act.put, List.setIfInBounds_toArray, List.set_cons_zero, List.set_cons_succ]
  refine anyTake (i := 9) (oi := { dst := some 61, op := Op.convert 24 9 (Operand.tmp 60), type := 9, pos := "law.go:100", after := #[{ on := 8, ground := Ground.data }, { on := 4, ground := Ground.guard }], guard := some (4, false) }) rfl (by kernel_rfl) (by kernel_rfl) (by kernel_rfl) (fun _ _ _ h => h) (by rfl) (fun w' hk => exec_convert rfl (conv_src (hsp9.keeps (KPcur.trans hk) (fun b hb => ⟨by omega, by omega⟩)))) ?_
  simp only [Act.put, List.setIfInBounds_toArray, List.set_cons_zero, List.set_cons_succ]
  have C6 := R1.out.block hlX
  rw [BK.out] at C6
  clear C1
  refine anyCall (i := 6) (oi := { dst := some 58, op := Op.call { callee := Callee.value (Operand.func 12), args := #[Operand.tmp 57], argTypes := #[22] }, type := 24, pos := "law.go:100", after := #[{ on := 5, ground := Ground.data }, { on := 4, ground := Ground.chain }, { on := 4, ground := Ground.guard }], guard := some (4, false) }) rfl (by kernel_rfl) (by rfl) ?_ ((C6).mono ?_)
  · go_simp
  rintro e6 w11 ⟨v6, rfl, ho6, hg6, hr6⟩
  have R6 := Lib.hid hr6
  obtain ⟨A6, c6, rfl, _, _, hs6⟩ := own_shape ho6
  have KP6 : Keeps (fun b => b = g) w9 w11 := KPcur.trans (Keeps.of_grown hg6 (fun r hr => by injection hr with hr; exact hr.symm))
  clear KPcur
  have KPcur := KP6
  clear KP6
  have zz6 := hg6.size
  refine ⟨_, rfl, Keeps.of_grown hg6 (fun r hr => by injection hr with hr; exact hr.symm), ?_⟩
  clear hr6 hg6 ho6
  simp only [Act.put, List.setIfInBounds_toArray, List.set_cons_zero, List.set_cons_succ]
  refine anyTake (i := 7) (oi := { dst := some 59, op := Op.convert 24 9 (Operand.tmp 58), type := 9, pos := "law.go:100", after := #[{ on := 6, ground := Ground.data }, { on := 4, ground := Ground.guard }], guard := some (4, false) }) rfl (by kernel_rfl) (by kernel_rfl) (by kernel_rfl) (fun _ _ _ h => h) (by rfl) (fun w' hk => exec_convert rfl (conv_src (hs6.keeps hk (fun b hb => ⟨hb.2, by omega⟩)))) ?_
  simp only [Act.put, List.setIfInBounds_toArray, List.set_cons_zero, List.set_cons_succ]
  refine anyTakeE (i := 10) (oi := { dst := some 62, op := Op.binOp BinOp.neq 9 (Operand.tmp 59) (Operand.tmp 61) 9, type := 4, pos := "law.go:100", after := #[{ on := 7, ground := Ground.data }, { on := 9, ground := Ground.data }, { on := 4, ground := Ground.guard }], guard := some (4, false) }) rfl (by kernel_rfl) (by kernel_rfl) (by kernel_rfl) (fun _ _ _ _ h => h) (by rfl) ?_
  apply Exists.intro
  refine ⟨fun w' hk => ?_, ?_⟩
  · go_simp <;> with_reducible rfl
  simp only [Act.put, List.setIfInBounds_toArray, List.set_cons_zero, List.set_cons_succ]
  refine anyTakeE (i := 11) (oi := { dst := some 63, op := Op.pick (Operand.tmp 56) (Operand.const (Value.bool true)) (Operand.tmp 62), type := 4, pos := "law.go:100", after := #[{ on := 4, ground := Ground.data }, { on := 10, ground := Ground.data }], guard := none }) rfl (by kernel_rfl) (by kernel_rfl) (by kernel_rfl) (fun _ _ _ _ h => h) (by rfl) ?_
  apply Exists.intro
  refine ⟨fun w' hk => ?_, ?_⟩
  · go_simp <;> with_reducible rfl
  simp only [Act.put, List.setIfInBounds_toArray, List.set_cons_zero, List.set_cons_succ]
  refine anyTakeE (i := 12) (oi := { dst := some 64, op := Op.move (Operand.tmp 63), type := 4, pos := "law.go:100", after := #[{ on := 11, ground := Ground.data }, { on := 6, ground := Ground.chain }], guard := none }) rfl (by kernel_rfl) (by kernel_rfl) (by kernel_rfl) (fun _ _ _ _ h => h) (by rfl) ?_
  apply Exists.intro
  refine ⟨fun w' hk => ?_, ?_⟩
  · go_simp <;> with_reducible rfl
  simp only [Act.put, List.setIfInBounds_toArray, List.set_cons_zero, List.set_cons_succ]
  refine anyTakeE (i := 13) (oi := { dst := some 65, op := Op.move (Operand.tmp 14), type := 22, pos := "law.go:100", after := #[{ on := 12, ground := Ground.guard }], guard := some (12, false) }) rfl (by kernel_rfl) (by kernel_rfl) (by kernel_rfl) (fun _ _ _ _ h => h) (by rfl) ?_
  apply Exists.intro
  refine ⟨fun w' hk => ?_, ?_⟩
  · go_simp <;> with_reducible rfl
  simp only [Act.put, List.setIfInBounds_toArray, List.set_cons_zero, List.set_cons_succ]
  refine anyTakeE (i := 15) (oi := { dst := some 67, op := Op.move (Operand.tmp 3), type := 25, pos := "law.go:100", after := #[{ on := 12, ground := Ground.guard }], guard := some (12, false) }) rfl (by kernel_rfl) (by kernel_rfl) (by kernel_rfl) (fun _ _ _ _ h => h) (by rfl) ?_
  apply Exists.intro
  refine ⟨fun w' hk => ?_, ?_⟩
  · go_simp <;> with_reducible rfl
  simp only [Act.put, List.setIfInBounds_toArray, List.set_cons_zero, List.set_cons_succ]
  have C14 := R6.out.num hlX
  rw [N2.out] at C14
  clear C6
  refine anyCall (i := 14) (oi := { dst := some 66, op := Op.call { callee := Callee.value (Operand.func 10), args := #[Operand.tmp 65], argTypes := #[22] }, type := 25, pos := "law.go:100", after := #[{ on := 13, ground := Ground.data }, { on := 12, ground := Ground.chain }, { on := 12, ground := Ground.guard }], guard := some (12, false) }) rfl (by kernel_rfl) (by rfl) ?_ ((C14).mono ?_)
  · go_simp
  rintro e14 w12 ⟨rfl, hg14, hr14⟩
  have R14 := Lib.hid hr14
  have KP14 : Keeps (fun b => b = g) w9 w12 := KPcur.trans (Keeps.of_grown hg14 (fun r hr => by injection hr with hr; exact hr.symm))
  clear KPcur
  have KPcur := KP14
  clear KP14
  have zz14 := hg14.size
  refine ⟨_, rfl, Keeps.of_grown hg14 (fun r hr => by injection hr with hr; exact hr.symm), ?_⟩
  clear hr14 hg14
  simp only [Act.put, List.setIfInBounds_toArray, List.set_cons_zero, List.set_cons_succ]
  refine anyTakeE (i := 16) (oi := { dst := some 68, op := Op.binOp BinOp.neq 25 (Operand.tmp 66) (Operand.tmp 67) 25, type := 4, pos := "law.go:100", after := #[{ on := 14, ground := Ground.data }, { on := 15, ground := Ground.data }, { on := 12, ground := Ground.guard }], guard := some (12, false) }) rfl (by kernel_rfl) (by kernel_rfl) (by kernel_rfl) (fun _ _ _ _ h => h) (by rfl) ?_
  apply Exists.intro
  refine ⟨fun w' hk => ?_, ?_⟩
  · go_simp <;> with_reducible rfl
  simp only [Act.put, List.setIfInBounds_toArray, List.set_cons_zero, List.set_cons_succ]
  refine anyTakeE (i := 17) (oi := { dst := some 69, op := Op.pick (Operand.tmp 64) (Operand.const (Value.bool true)) (Operand.tmp 68), type := 4, pos := "law.go:100", after := #[{ on := 12, ground := Ground.data }, { on := 16, ground := Ground.data }], guard := none }) rfl (by kernel_rfl) (by kernel_rfl) (by kernel_rfl) (fun _ _ _ _ h => h) (by rfl) ?_
  apply Exists.intro
  refine ⟨fun w' hk => ?_, ?_⟩
  · go_simp <;> with_reducible rfl
  simp only [Act.put, List.setIfInBounds_toArray, List.set_cons_zero, List.set_cons_succ]
  refine anyTakeE (i := 18) (oi := { dst := some 70, op := Op.move (Operand.tmp 69), type := 4, pos := "law.go:100", after := #[{ on := 17, ground := Ground.data }, { on := 14, ground := Ground.chain }], guard := none }) rfl (by kernel_rfl) (by kernel_rfl) (by kernel_rfl) (fun _ _ _ _ h => h) (by rfl) ?_
  apply Exists.intro
  refine ⟨fun w' hk => ?_, ?_⟩
  · go_simp <;> with_reducible rfl
  simp only [Act.put, List.setIfInBounds_toArray, List.set_cons_zero, List.set_cons_succ]
  refine anyTakeE (i := 19) (oi := { dst := some 71, op := Op.move (Operand.tmp 14), type := 22, pos := "law.go:100", after := #[{ on := 18, ground := Ground.guard }], guard := some (18, false) }) rfl (by kernel_rfl) (by kernel_rfl) (by kernel_rfl) (fun _ _ _ _ h => h) (by rfl) ?_
  apply Exists.intro
  refine ⟨fun w' hk => ?_, ?_⟩
  · go_simp <;> with_reducible rfl
  simp only [Act.put, List.setIfInBounds_toArray, List.set_cons_zero, List.set_cons_succ]
  refine anyTakeE (i := 20) (oi := { dst := some 72, op := Op.move (Operand.tmp 5), type := 3, pos := "law.go:100", after := #[{ on := 18, ground := Ground.guard }], guard := some (18, false) }) rfl (by kernel_rfl) (by kernel_rfl) (by kernel_rfl) (fun _ _ _ _ h => h) (by rfl) ?_
  apply Exists.intro
  refine ⟨fun w' hk => ?_, ?_⟩
  · go_simp <;> with_reducible rfl
  simp only [Act.put, List.setIfInBounds_toArray, List.set_cons_zero, List.set_cons_succ]
  refine anyTakeE (i := 22) (oi := { dst := some 74, op := Op.move (Operand.tmp 3), type := 25, pos := "law.go:100", after := #[{ on := 18, ground := Ground.guard }], guard := some (18, false) }) rfl (by kernel_rfl) (by kernel_rfl) (by kernel_rfl) (fun _ _ _ _ h => h) (by rfl) ?_
  apply Exists.intro
  refine ⟨fun w' hk => ?_, ?_⟩
  · go_simp <;> with_reducible rfl
  simp only [Act.put, List.setIfInBounds_toArray, List.set_cons_zero, List.set_cons_succ]
  refine anyTakeE (i := 23) (oi := { dst := some 75, op := Op.move (Operand.tmp 16), type := 25, pos := "law.go:100", after := #[{ on := 18, ground := Ground.guard }], guard := some (18, false) }) rfl (by kernel_rfl) (by kernel_rfl) (by kernel_rfl) (fun _ _ _ _ h => h) (by rfl) ?_
  apply Exists.intro
  refine ⟨fun w' hk => ?_, ?_⟩
  · go_simp <;> with_reducible rfl
  simp only [Act.put, List.setIfInBounds_toArray, List.set_cons_zero, List.set_cons_succ]
  refine anyTakeE (i := 24) (oi := { dst := some 76, op := Op.binOp BinOp.and 25 (Operand.tmp 74) (Operand.tmp 75) 25, type := 25, pos := "law.go:100", after := #[{ on := 22, ground := Ground.data }, { on := 23, ground := Ground.data }, { on := 18, ground := Ground.guard }], guard := some (18, false) }) rfl (by kernel_rfl) (by kernel_rfl) (by kernel_rfl) (fun _ _ _ _ h => h) (by rfl) ?_
  apply Exists.intro
  refine ⟨fun w' hk => ?_, ?_⟩
  · go_simp <;> with_reducible rfl
  simp only [Act.put, List.setIfInBounds_toArray, List.set_cons_zero, List.set_cons_succ]
  have C21 := CW.out _ _ _ _ R14.out
  clear C14
  refine anyCall (i := 21) (oi := { dst := some 73, op := Op.call { callee := Callee.value (Operand.func 11), args := #[Operand.tmp 71, Operand.tmp 72], argTypes := #[22, 3] }, type := 25, pos := "law.go:100", after := #[{ on := 19, ground := Ground.data }, { on := 20, ground := Ground.data }, { on := 18, ground := Ground.chain }, { on := 18, ground := Ground.guard }], guard := some (18, false) }) rfl (by kernel_rfl) (by rfl) ?_ ((C21).mono ?_)
  · go_simp
  rintro e21 w13 ⟨rfl, hg21, hr21⟩
  have R21 := Lib.hid hr21
  have KP21 : Keeps (fun b => b = g) w9 w13 := KPcur.trans (Keeps.of_grown hg21 (fun r hr => by injection hr with hr; exact hr.symm))
  clear KPcur
  have KPcur := KP21
  clear KP21
  have zz21 := hg21.size
  refine ⟨_, rfl, Keeps.of_grown hg21 (fun r hr => by injection hr with hr; exact hr.symm), ?_⟩
  clear hr21 hg21
  simp only [Act.put, List.setIfInBounds_toArray, List.set_cons_zero, List.set_cons_succ]
  refine anyTakeE (i := 25) (oi := { dst := some 77, op := Op.binOp BinOp.neq 25 (Operand.tmp 73) (Operand.tmp 76) 25, type := 4, pos := "law.go:100", after := #[{ on := 21, ground := Ground.data }, { on := 24, ground := Ground.data }, { on := 18, ground := Ground.guard }], guard := some (18, false) }) rfl (by kernel_rfl) (by kernel_rfl) (by kernel_rfl) (fun _ _ _ _ h => h) (by rfl) ?_
  apply Exists.intro
  refine ⟨fun w' hk => ?_, ?_⟩
  · go_simp <;> with_reducible rfl
  simp only [Act.put, List.setIfInBounds_toArray, List.set_cons_zero, List.set_cons_succ]
  refine anyTakeE (i := 26) (oi := { dst := some 78, op := Op.pick (Operand.tmp 70) (Operand.const (Value.bool true)) (Operand.tmp 77), type := 4, pos := "law.go:100", after := #[{ on := 18, ground := Ground.data }, { on := 25, ground := Ground.data }], guard := none }) rfl (by kernel_rfl) (by kernel_rfl) (by kernel_rfl) (fun _ _ _ _ h => h) (by rfl) ?_
  apply Exists.intro
  refine ⟨fun w' hk => ?_, ?_⟩
  · go_simp <;> with_reducible rfl
  simp only [Act.put, List.setIfInBounds_toArray, List.set_cons_zero, List.set_cons_succ]
  refine anyTakeE (i := 27) (oi := { dst := some 79, op := Op.move (Operand.tmp 78), type := 4, pos := "law.go:100", after := #[{ on := 26, ground := Ground.data }, { on := 21, ground := Ground.chain }], guard := none }) rfl (by kernel_rfl) (by kernel_rfl) (by kernel_rfl) (fun _ _ _ _ h => h) (by rfl) ?_
  apply Exists.intro
  refine ⟨fun w' hk => ?_, ?_⟩
  · go_simp <;> with_reducible rfl
  simp only [Act.put, List.setIfInBounds_toArray, List.set_cons_zero, List.set_cons_succ]
  refine anyTakeE (i := 28) (oi := { dst := some 80, op := Op.move (Operand.tmp 14), type := 22, pos := "law.go:100", after := #[{ on := 27, ground := Ground.guard }], guard := some (27, false) }) rfl (by kernel_rfl) (by kernel_rfl) (by kernel_rfl) (fun _ _ _ _ h => h) (by rfl) ?_
  apply Exists.intro
  refine ⟨fun w' hk => ?_, ?_⟩
  · go_simp <;> with_reducible rfl
  simp only [Act.put, List.setIfInBounds_toArray, List.set_cons_zero, List.set_cons_succ]
  refine anyTake (i := 30) (oi := { dst := some 82, op := Op.load 33 (Operand.tmp 10), type := 33, pos := "law.go:100", after := #[{ on := 27, ground := Ground.guard }], guard := some (27, false) }) rfl (by kernel_rfl) (by kernel_rfl) (by kernel_rfl) (fun _ _ _ h => h) (by rfl) (fun w' hk => exec_load 33 (.tmp 10) rfl w.heap.size 0 rfl (bcs d) (src_cells_at (hsd9.keeps (KPcur.trans hk) (fun b hb => ⟨by omega, by omega⟩))) _ under33 rfl (by rw [size33, bcs_len, Hd.out]; rfl)) ?_
  simp only [Act.put, List.setIfInBounds_toArray, List.set_cons_zero, List.set_cons_succ]
  have C29 := R21.out.digest hlX
  rw [DG.out] at C29
  simp only [DC.out] at C29
  clear C21
  refine anyCall (i := 29) (oi := { dst := some 81, op := Op.call { callee := Callee.value (Operand.func 15), args := #[Operand.tmp 80], argTypes := #[22] }, type := 33, pos := "law.go:100", after := #[{ on := 28, ground := Ground.data }, { on := 27, ground := Ground.chain }, { on := 27, ground := Ground.guard }], guard := some (27, false) }) rfl (by kernel_rfl) (by rfl) ?_ ((C29).mono ?_)
  · go_simp
  rintro e29 w14 ⟨rfl, hg29, hr29⟩
  have R29 := Lib.hid hr29
  have KP29 : Keeps (fun b => b = g) w9 w14 := KPcur.trans (Keeps.of_grown hg29 (fun r hr => by injection hr with hr; exact hr.symm))
  clear KPcur
  have KPcur := KP29
  clear KP29
  have zz29 := hg29.size
  refine ⟨_, rfl, Keeps.of_grown hg29 (fun r hr => by injection hr with hr; exact hr.symm), ?_⟩
  clear hr29 hg29
  simp only [Act.put, List.setIfInBounds_toArray, List.set_cons_zero, List.set_cons_succ]
  refine anyTakeE (i := 31) (oi := { dst := some 83, op := Op.binOp BinOp.neq 33 (Operand.tmp 81) (Operand.tmp 82) 33, type := 4, pos := "law.go:100", after := #[{ on := 29, ground := Ground.data }, { on := 30, ground := Ground.data }, { on := 27, ground := Ground.guard }], guard := some (27, false) }) rfl (by kernel_rfl) (by kernel_rfl) (by kernel_rfl) (fun _ _ _ _ h => h) (by rfl) ?_
  apply Exists.intro
  refine ⟨fun w' hk => ?_, ?_⟩
  · go_simp <;> with_reducible rfl
  simp only [Act.put, List.setIfInBounds_toArray, List.set_cons_zero, List.set_cons_succ]
  refine anyTakeE (i := 32) (oi := { dst := some 84, op := Op.pick (Operand.tmp 79) (Operand.const (Value.bool true)) (Operand.tmp 83), type := 4, pos := "law.go:100", after := #[{ on := 27, ground := Ground.data }, { on := 31, ground := Ground.data }], guard := none }) rfl (by kernel_rfl) (by kernel_rfl) (by kernel_rfl) (fun _ _ _ _ h => h) (by rfl) ?_
  apply Exists.intro
  refine ⟨fun w' hk => ?_, ?_⟩
  · go_simp <;> with_reducible rfl
  simp only [Act.put, List.setIfInBounds_toArray, List.set_cons_zero, List.set_cons_succ]
  refine anyTakeE (i := 33) (oi := { dst := some 85, op := Op.move (Operand.tmp 84), type := 4, pos := "law.go:100", after := #[{ on := 32, ground := Ground.data }, { on := 29, ground := Ground.chain }], guard := none }) rfl (by kernel_rfl) (by kernel_rfl) (by kernel_rfl) (fun _ _ _ _ h => h) (by rfl) ?_
  apply Exists.intro
  refine ⟨fun w' hk => ?_, ?_⟩
  · go_simp <;> with_reducible rfl
  simp only [Act.put, List.setIfInBounds_toArray, List.set_cons_zero, List.set_cons_succ]
  refine anyTakeE (i := 34) (oi := { dst := some 86, op := Op.move (Operand.tmp 14), type := 22, pos := "law.go:100", after := #[{ on := 33, ground := Ground.guard }], guard := some (33, false) }) rfl (by kernel_rfl) (by kernel_rfl) (by kernel_rfl) (fun _ _ _ _ h => h) (by rfl) ?_
  apply Exists.intro
  refine ⟨fun w' hk => ?_, ?_⟩
  · go_simp <;> with_reducible rfl
  simp only [Act.put, List.setIfInBounds_toArray, List.set_cons_zero, List.set_cons_succ]
  have C35 := R29.out.end_ hlX
  rw [if_pos rfl, if_neg (by omega)] at C35
  clear C29
  refine anyCall (i := 35) (oi := { dst := some 87, op := Op.call { callee := Callee.value (Operand.func 14), args := #[Operand.tmp 86], argTypes := #[22] }, type := 30, pos := "law.go:100", after := #[{ on := 34, ground := Ground.data }, { on := 33, ground := Ground.chain }, { on := 33, ground := Ground.guard }], guard := some (33, false) }) rfl (by kernel_rfl) (by rfl) ?_ ((C35).mono ?_)
  · go_simp
  rintro e35 w15 ⟨rfl, q35, rfl⟩
  have KP35 : Keeps (fun b => b = g) w9 (w14.drewN q35) := KPcur.trans (Keeps.drewN _ _ _)
  refine ⟨_, rfl, Keeps.drewN _ _ _, ?_⟩
  clear KPcur C35
  simp only [Act.put, List.setIfInBounds_toArray, List.set_cons_zero, List.set_cons_succ]
  refine anyTakeE (i := 36) (oi := { dst := some 88, op := Op.binOp BinOp.neq 30 (Operand.tmp 87) (Operand.const (Value.int IntKind.i64 0)) 30, type := 4, pos := "law.go:100", after := #[{ on := 35, ground := Ground.data }, { on := 33, ground := Ground.guard }], guard := some (33, false) }) rfl (by kernel_rfl) (by kernel_rfl) (by kernel_rfl) (fun _ _ _ _ h => h) (by rfl) ?_
  apply Exists.intro
  refine ⟨fun w' hk => ?_, ?_⟩
  · go_simp <;> with_reducible rfl
  simp only [Act.put, List.setIfInBounds_toArray, List.set_cons_zero, List.set_cons_succ]
  refine anyTakeE (i := 37) (oi := { dst := some 89, op := Op.pick (Operand.tmp 85) (Operand.const (Value.bool true)) (Operand.tmp 88), type := 4, pos := "law.go:100", after := #[{ on := 33, ground := Ground.data }, { on := 36, ground := Ground.data }], guard := none }) rfl (by kernel_rfl) (by kernel_rfl) (by kernel_rfl) (fun _ _ _ _ h => h) (by rfl) ?_
  apply Exists.intro
  refine ⟨fun w' hk => ?_, ?_⟩
  · go_simp <;> with_reducible rfl
  simp only [Act.put, List.setIfInBounds_toArray, List.set_cons_zero, List.set_cons_succ]
  refine anyDone (by kernel_rfl) ?_ _
  clear N1 BK N2 DG DC hm1 hm2 heq CW hend HXl hlX Hd hsp9 hsd9 R9
  obtain ⟨W0, hW0⟩ : ∃ W0, W0 = w14.drewN q35 := ⟨_, rfl⟩
  have KBW : Hid (Below w.heap.size w W0) := by
    rw [hW0]
    exact KB9.out.trans (KP35.below (by omega) (fun k hk => by omega))
  have hsbW : Src W0 (· < w7.heap.size) Ab l.length (bcs l) := by
    rw [hW0]
    exact hsb9.keeps KP35 (fun b hb => ⟨by omega, by omega⟩)
  have zW : w7.heap.size ≤ W0.heap.size := by rw [hW0]; have := KP35.size; omega
  go_wp2_with fail
  rw [← hW0]
  clear KP35 hW0 hsb9 KB9 R1 R6 R14 R21 R29 hs6
  refine (own_any W0 _ Ab l.length cb l hsbW (fun b hb => by omega) (by omega)).mono ?_
  rintro e16 w16 ⟨v16, rfl, ho16, hb16⟩
  obtain ⟨A16, c16, rfl, _, _, hs16⟩ := own_shape ho16
  have hsb16 := hsbW.below' hb16 (fun b hb => by omega)
  have KB16 : Hid (Below w.heap.size w w16) := KBW.out.trans (hb16.mono KBW.out.size)
  have z16 : w7.heap.size ≤ w16.heap.size := by have := hb16.size; omega
  clear ho16 hb16 hsbW KBW zW
  go_wp2_with fail
  refine (read_any w16 _ A16 l.length c16 l hs16 (fun b hb => hb.2) (by omega)).mono ?_
  rintro e17 w17 ⟨gs, rfl, hr17, hb17⟩
  have hsb17 := hsb16.below' hb17 (fun b hb => by omega)
  have KB17 : Hid (Below w.heap.size w w17) := KB16.out.trans (hb17.mono KB16.out.size)
  have S17 := Lib.hid hr17
  have z17 : w7.heap.size ≤ w17.heap.size := by have := hb17.size; omega
  have gs1 := hr17.lo_le
  have gs2 := hr17.g_lt
  clear hr17 hb17 hsb16 hs16 KB16
  have hlen : l.length ≤ 1000000000 := by omega
  have CN := Lib.hid (S17.out.num hlen)
  have NB := Lib.hid (num_back l)
  have hu := numS_lt l 0 0
  generalize numS l 0 0 = r at *
  obtain ⟨u, ku, eu⟩ := r
  simp only at CN NB hu
  go_wp2_with fail
  refine CN.out.mono ?_
  rintro e18 w18 ⟨rfl, hg18, hr18⟩
  have hsb18 : Src w18 (· < w7.heap.size) Ab l.length (bcs l) := hsb17.grown hg18 (fun b hb => ⟨by omega, fun e => by injection e; omega⟩) (fun _ h => h)
  have KB18 : Hid (Below w.heap.size w w18) := KB17.out.grown hg18 KB17.out.size (fun r hr => by injection hr; have := KB17.out.size; omega)
  have S18 := Lib.hid hr18
  have z18 : w17.heap.size ≤ w18.heap.size := hg18.size
  clear hr18 hg18 hsb17 KB17 S17 CN
  go_wp2_with fail
  obtain ⟨wa, hwa⟩ : ∃ wa, wa = w18.drew := ⟨_, rfl⟩
  have hsba : Src wa (· < w7.heap.size) Ab l.length (bcs l) := by rw [hwa]; exact ⟨hsb18.len, hsb18.lies⟩
  have KBa : Hid (Below w.heap.size w wa) := by rw [hwa]; exact KB18.out.drew
  have S12 : Hid (Rdr wa w16.heap.size w17.heap.size gs l ku eu) := by rw [hwa]; exact S18.out.far (row := none) ⟨rfl, rfl, rfl, Nat.le_refl _, fun _ _ _ => rfl⟩ (by simp)
  have za : w17.heap.size ≤ wa.heap.size := by rw [hwa]; exact z18
  refine anyStart (fun b => b = gs) (by kernel_rfl) ?_
  rw [← hwa]
  clear hwa hsb18 KB18 S18 z18
  by_cases he : eu = 0
  focus
    obtain ⟨hnb, hku⟩ := NB.out he
    have HNB := Lib.hid hnb
    have heb : (((eu : Nat) : Int) == 0) = true := by rw [he]; rfl
    have hkk : ((l.length : Int) - ((l.length - ku : Nat) : Int)) = (ku : Int) := by omega
    have hkc : (ku : Int) ≤ (cb : Int) := by omega
    have hwr : IntKind.i64.wrap (ku : Int) = (ku : Int) := by rw [IntKind.wrap_i64]; omega
    clear hnb
    refine anyTakeE (i := 0) (oi := { dst := some 95, op := Op.move (Operand.tmp 17), type := 22, pos := "law.go:105", after := #[], guard := none }) rfl (by kernel_rfl) (by kernel_rfl) (by kernel_rfl) (fun _ _ _ _ h => h) (by rfl) ?_
    apply Exists.intro
    refine ⟨fun w' hk => ?_, ?_⟩
    · go_simp <;> with_reducible rfl
    simp only [Act.put, List.setIfInBounds_toArray, List.set_cons_zero, List.set_cons_succ]
    refine anyCall (i := 1) (oi := { dst := some 96, op := Op.call { callee := Callee.value (Operand.func 17), args := #[Operand.tmp 95], argTypes := #[22] }, type := 30, pos := "law.go:105", after := #[{ on := 0, ground := Ground.data }], guard := none }) rfl (by kernel_rfl) (by rfl) ?_ ((S12.out.err).mono ?_)
    · go_simp
    rintro e1 w14b ⟨rfl, rfl⟩
    refine ⟨_, rfl, Keeps.refl _ _, ?_⟩
    simp only [Act.put, List.setIfInBounds_toArray, List.set_cons_zero, List.set_cons_succ]
    refine anyTakeE (i := 2) (oi := { dst := some 97, op := Op.binOp BinOp.eql 30 (Operand.tmp 96) (Operand.const (Value.int IntKind.i64 0)) 30, type := 4, pos := "law.go:105", after := #[{ on := 1, ground := Ground.data }], guard := none }) rfl (by kernel_rfl) (by kernel_rfl) (by kernel_rfl) (fun _ _ _ _ h => h) (by rfl) ?_
    apply Exists.intro
    refine ⟨fun w' hk => ?_, ?_⟩
    · go_simp <;> with_reducible rfl
    simp only [Act.put, List.setIfInBounds_toArray, List.set_cons_zero, List.set_cons_succ]
    refine anyTakeE (i := 3) (oi := { dst := some 98, op := Op.move (Operand.tmp 97), type := 4, pos := "law.go:105", after := #[{ on := 2, ground := Ground.data }, { on := 1, ground := Ground.chain }], guard := none }) rfl (by kernel_rfl) (by kernel_rfl) (by kernel_rfl) (fun _ _ _ _ h => h) (by rfl) ?_
    apply Exists.intro
    refine ⟨fun w' hk => ?_, ?_⟩
    · go_simp <;> with_reducible rfl
    simp only [Act.put, List.setIfInBounds_toArray, List.set_cons_zero, List.set_cons_succ]
    refine anyTakeE (i := 4) (oi := { dst := some 99, op := Op.move (Operand.tmp 18), type := 25, pos := "law.go:105", after := #[{ on := 3, ground := Ground.guard }], guard := some (3, true) }) rfl (by kernel_rfl) (by kernel_rfl) (by kernel_rfl) (fun _ _ _ _ h => h) (by rfl) ?_
    apply Exists.intro
    refine ⟨fun w' hk => ?_, ?_⟩
    · go_simp <;> with_reducible rfl
    simp only [Act.put, List.setIfInBounds_toArray, List.set_cons_zero, List.set_cons_succ]
    refine anyTakeE (i := 7) (oi := { dst := some 102, op := Op.move (Operand.tmp 0), type := 24, pos := "law.go:105", after := #[{ on := 3, ground := Ground.guard }], guard := some (3, true) }) rfl (by kernel_rfl) (by kernel_rfl) (by kernel_rfl) (fun _ _ _ _ h => h) (by rfl) ?_
    apply Exists.intro
    refine ⟨fun w' hk => ?_, ?_⟩
    · go_simp <;> with_reducible rfl
    simp only [Act.put, List.setIfInBounds_toArray, List.set_cons_zero, List.set_cons_succ]
    refine anyTakeE (i := 8) (oi := { dst := some 103, op := Op.move (Operand.tmp 0), type := 24, pos := "law.go:105", after := #[{ on := 3, ground := Ground.guard }], guard := some (3, true) }) rfl (by kernel_rfl) (by kernel_rfl) (by kernel_rfl) (fun _ _ _ _ h => h) (by rfl) ?_
    apply Exists.intro
    refine ⟨fun w' hk => ?_, ?_⟩
    · go_simp <;> with_reducible rfl
    simp only [Act.put, List.setIfInBounds_toArray, List.set_cons_zero, List.set_cons_succ]
    refine anyTakeE (i := 9) (oi := { dst := some 104, op := Op.call { callee := Callee.builtin Builtin.len, args := #[Operand.tmp 103], argTypes := #[24] }, type := 3, pos := "law.go:105", after := #[{ on := 8, ground := Ground.data }, { on := 3, ground := Ground.guard }], guard := some (3, true) }) rfl (by kernel_rfl) (by kernel_rfl) (by kernel_rfl) (fun _ _ _ _ h => h) (by rfl) ?_
    apply Exists.intro
    refine ⟨fun w' hk => ?_, ?_⟩
    · go_simp <;> with_reducible rfl
    simp only [Act.put, List.setIfInBounds_toArray, List.set_cons_zero, List.set_cons_succ]
    refine anyTakeE (i := 10) (oi := { dst := some 105, op := Op.move (Operand.tmp 17), type := 22, pos := "law.go:105", after := #[{ on := 3, ground := Ground.guard }], guard := some (3, true) }) rfl (by kernel_rfl) (by kernel_rfl) (by kernel_rfl) (fun _ _ _ _ h => h) (by rfl) ?_
    apply Exists.intro
    refine ⟨fun w' hk => ?_, ?_⟩
    · go_simp <;> with_reducible rfl
    simp only [Act.put, List.setIfInBounds_toArray, List.set_cons_zero, List.set_cons_succ]
    refine anyCall (i := 5) (oi := { dst := some 100, op := Op.call { callee := Callee.value (Operand.func 19), args := #[Operand.const (Value.slice none 0 0), Operand.tmp 99], argTypes := #[24, 25] }, type := 24, pos := "law.go:105", after := #[{ on := 4, ground := Ground.data }, { on := 3, ground := Ground.chain }, { on := 3, ground := Ground.guard }], guard := some (3, true) }) rfl (by kernel_rfl) (by rfl) ?_ ((number_any wa (fun _ => False) none 0 0 [] u (Src.nil_ _ _ _) (fun _ h => h.elim) (by omega) hu).mono ?_)
    · go_simp
    rintro e5 wb ⟨v5, rfl, ho5, hb5⟩
    rw [List.nil_append, HNB.out] at ho5
    have zb := hb5.size
    obtain ⟨A55, c55, rfl, _, _, hs55⟩ := own_shape ho5
    have SB := Lib.hid (S12.out.below hb5 S12.out.hi_le)
    have KBb : Below wa.heap.size wa wb := hb5
    refine ⟨_, rfl, Keeps.of_below hb5, ?_⟩
    clear ho5
    simp only [Act.put, List.setIfInBounds_toArray, List.set_cons_zero, List.set_cons_succ]
    refine anyTake (i := 6) (oi := { dst := some 101, op := Op.convert 24 9 (Operand.tmp 100), type := 9, pos := "law.go:105", after := #[{ on := 5, ground := Ground.data }, { on := 3, ground := Ground.guard }], guard := some (3, true) }) rfl (by kernel_rfl) (by kernel_rfl) (by kernel_rfl) (fun _ _ _ h => h) (by rfl) (fun w' hk => exec_convert rfl (conv_src (hs55.keeps hk (fun b hb => ⟨hb.2, by omega⟩)))) ?_
    simp only [Act.put, List.setIfInBounds_toArray, List.set_cons_zero, List.set_cons_succ]
    refine anyCall (i := 11) (oi := { dst := some 106, op := Op.call { callee := Callee.value (Operand.func 13), args := #[Operand.tmp 105], argTypes := #[22] }, type := 3, pos := "law.go:105", after := #[{ on := 10, ground := Ground.data }, { on := 5, ground := Ground.chain }, { on := 3, ground := Ground.guard }], guard := some (3, true) }) rfl (by kernel_rfl) (by rfl) ?_ ((SB.out.left hlen).mono ?_)
    · go_simp
    rintro e11 wc ⟨rfl, q11, rfl⟩
    refine ⟨_, rfl, Keeps.drewN _ _ _, ?_⟩
    simp only [Act.put, List.setIfInBounds_toArray, List.set_cons_zero, List.set_cons_succ]
    refine anyTakeE (i := 12) (oi := { dst := some 107, op := Op.binOp BinOp.sub 3 (Operand.tmp 104) (Operand.tmp 106) 3, type := 3, pos := "law.go:105", after := #[{ on := 9, ground := Ground.data }, { on := 11, ground := Ground.data }, { on := 3, ground := Ground.guard }], guard := some (3, true) }) rfl (by kernel_rfl) (by kernel_rfl) (by kernel_rfl) (fun _ _ _ _ h => h) (by rfl) ?_
    apply Exists.intro
    refine ⟨fun w' hk => ?_, ?_⟩
    · go_simp <;> with_reducible rfl
    simp only [Act.put, List.setIfInBounds_toArray, List.set_cons_zero, List.set_cons_succ]
    refine anyTakeE (i := 13) (oi := { dst := some 108, op := Op.slice 24 (Operand.tmp 102) none (some (Operand.tmp 107)) none, type := 24, pos := "law.go:105", after := #[{ on := 7, ground := Ground.data }, { on := 12, ground := Ground.data }, { on := 3, ground := Ground.guard }], guard := some (3, true) }) rfl (by kernel_rfl) (by kernel_rfl) (by kernel_rfl) (fun _ _ _ _ h => h) (by rfl) ?_
    apply Exists.intro
    refine ⟨fun w' hk => ?_, ?_⟩
    · go_simp <;> with_reducible rfl
    simp only [Act.put, List.setIfInBounds_toArray, List.set_cons_zero, List.set_cons_succ]
    refine anyTake (i := 14) (oi := { dst := some 109, op := Op.convert 24 9 (Operand.tmp 108), type := 9, pos := "law.go:105", after := #[{ on := 13, ground := Ground.data }, { on := 3, ground := Ground.guard }], guard := some (3, true) }) rfl (by kernel_rfl) (by kernel_rfl) (by kernel_rfl) (fun _ _ _ h => h) (by rfl) (fun w' hk => exec_convert rfl (conv_src (l := l.take ku) (((hsba.below' KBb (fun b hb => by omega)).take_b ku hku).keeps ((Keeps.drewN _ _ _).trans hk) (fun b hb => ⟨by omega, by omega⟩)))) ?_
    simp only [Act.put, List.setIfInBounds_toArray, List.set_cons_zero, List.set_cons_succ]
    refine anyTakeE (i := 15) (oi := { dst := some 110, op := Op.binOp BinOp.neq 9 (Operand.tmp 101) (Operand.tmp 109) 9, type := 4, pos := "law.go:105", after := #[{ on := 6, ground := Ground.data }, { on := 14, ground := Ground.data }, { on := 3, ground := Ground.guard }], guard := some (3, true) }) rfl (by kernel_rfl) (by kernel_rfl) (by kernel_rfl) (fun _ _ _ _ h => h) (by rfl) ?_
    apply Exists.intro
    refine ⟨fun w' hk => ?_, ?_⟩
    · go_simp <;> with_reducible rfl
    simp only [Act.put, List.setIfInBounds_toArray, List.set_cons_zero, List.set_cons_succ]
    refine anyTakeE (i := 16) (oi := { dst := some 111, op := Op.pick (Operand.tmp 98) (Operand.tmp 110) (Operand.const (Value.bool false)), type := 4, pos := "law.go:105", after := #[{ on := 3, ground := Ground.data }, { on := 15, ground := Ground.data }], guard := none }) rfl (by kernel_rfl) (by kernel_rfl) (by kernel_rfl) (fun _ _ _ _ h => h) (by rfl) ?_
    apply Exists.intro
    refine ⟨fun w' hk => ?_, ?_⟩
    · go_simp <;> with_reducible rfl
    simp only [Act.put, List.setIfInBounds_toArray, List.set_cons_zero, List.set_cons_succ]
    refine anyDone (by kernel_rfl) ?_ _
    obtain ⟨wz, hwz⟩ : ∃ wz, wz = wb.drewN q11 := ⟨_, rfl⟩
    have hsbz : Src wz (· < w7.heap.size) Ab l.length (bcs l) := by rw [hwz]; exact (hsba.below' KBb (fun b hb => by omega)).drewN _
    have KBz : Hid (Below w.heap.size w wz) := by rw [hwz]; exact below_drewN' (KBa.out.trans (KBb.mono KBa.out.size)) _
    have zz : w7.heap.size ≤ wz.heap.size := by rw [hwz]; have := KBb.size; show w7.heap.size ≤ wb.heap.size; omega
    go_wp2_with fail
  rotate_left
  focus
    have heb : (((eu : Nat) : Int) == 0) = false := by simp; omega
    refine anyTakeE (i := 0) (oi := { dst := some 95, op := Op.move (Operand.tmp 17), type := 22, pos := "law.go:105", after := #[], guard := none }) rfl (by kernel_rfl) (by kernel_rfl) (by kernel_rfl) (fun _ _ _ _ h => h) (by rfl) ?_
    apply Exists.intro
    refine ⟨fun w' hk => ?_, ?_⟩
    · go_simp <;> with_reducible rfl
    simp only [Act.put, List.setIfInBounds_toArray, List.set_cons_zero, List.set_cons_succ]
    refine anyCall (i := 1) (oi := { dst := some 96, op := Op.call { callee := Callee.value (Operand.func 17), args := #[Operand.tmp 95], argTypes := #[22] }, type := 30, pos := "law.go:105", after := #[{ on := 0, ground := Ground.data }], guard := none }) rfl (by kernel_rfl) (by rfl) ?_ ((S12.out.err).mono ?_)
    · go_simp
    rintro e1 w14b ⟨rfl, rfl⟩
    refine ⟨_, rfl, Keeps.refl _ _, ?_⟩
    simp only [Act.put, List.setIfInBounds_toArray, List.set_cons_zero, List.set_cons_succ]
    refine anyTakeE (i := 2) (oi := { dst := some 97, op := Op.binOp BinOp.eql 30 (Operand.tmp 96) (Operand.const (Value.int IntKind.i64 0)) 30, type := 4, pos := "law.go:105", after := #[{ on := 1, ground := Ground.data }], guard := none }) rfl (by kernel_rfl) (by kernel_rfl) (by kernel_rfl) (fun _ _ _ _ h => h) (by rfl) ?_
    apply Exists.intro
    refine ⟨fun w' hk => ?_, ?_⟩
    · go_simp <;> with_reducible rfl
    simp only [Act.put, List.setIfInBounds_toArray, List.set_cons_zero, List.set_cons_succ]
    refine anyTakeE (i := 3) (oi := { dst := some 98, op := Op.move (Operand.tmp 97), type := 4, pos := "law.go:105", after := #[{ on := 2, ground := Ground.data }, { on := 1, ground := Ground.chain }], guard := none }) rfl (by kernel_rfl) (by kernel_rfl) (by kernel_rfl) (fun _ _ _ _ h => h) (by rfl) ?_
    apply Exists.intro
    refine ⟨fun w' hk => ?_, ?_⟩
    · go_simp <;> with_reducible rfl
    simp only [Act.put, List.setIfInBounds_toArray, List.set_cons_zero, List.set_cons_succ]
    refine anySkip (i := 4) (oi := { dst := some 99, op := Op.move (Operand.tmp 18), type := 25, pos := "law.go:105", after := #[{ on := 3, ground := Ground.guard }], guard := some (3, true) }) rfl (by kernel_rfl) (by kernel_rfl) (by kernel_rfl) (fun _ _ _ h => h) (by rfl) ?_
    simp only [Act.put, List.setIfInBounds_toArray, List.set_cons_zero, List.set_cons_succ]
    refine anySkip (i := 7) (oi := { dst := some 102, op := Op.move (Operand.tmp 0), type := 24, pos := "law.go:105", after := #[{ on := 3, ground := Ground.guard }], guard := some (3, true) }) rfl (by kernel_rfl) (by kernel_rfl) (by kernel_rfl) (fun _ _ _ h => h) (by rfl) ?_
    simp only [Act.put, List.setIfInBounds_toArray, List.set_cons_zero, List.set_cons_succ]
    refine anySkip (i := 8) (oi := { dst := some 103, op := Op.move (Operand.tmp 0), type := 24, pos := "law.go:105", after := #[{ on := 3, ground := Ground.guard }], guard := some (3, true) }) rfl (by kernel_rfl) (by kernel_rfl) (by kernel_rfl) (fun _ _ _ h => h) (by rfl) ?_
    simp only [Act.put, List.setIfInBounds_toArray, List.set_cons_zero, List.set_cons_succ]
    refine anySkip (i := 9) (oi := { dst := some 104, op := Op.call { callee := Callee.builtin Builtin.len, args := #[Operand.tmp 103], argTypes := #[24] }, type := 3, pos := "law.go:105", after := #[{ on := 8, ground := Ground.data }, { on := 3, ground := Ground.guard }], guard := some (3, true) }) rfl (by kernel_rfl) (by kernel_rfl) (by kernel_rfl) (fun _ _ _ h => h) (by rfl) ?_
    simp only [Act.put, List.setIfInBounds_toArray, List.set_cons_zero, List.set_cons_succ]
    refine anySkip (i := 10) (oi := { dst := some 105, op := Op.move (Operand.tmp 17), type := 22, pos := "law.go:105", after := #[{ on := 3, ground := Ground.guard }], guard := some (3, true) }) rfl (by kernel_rfl) (by kernel_rfl) (by kernel_rfl) (fun _ _ _ h => h) (by rfl) ?_
    simp only [Act.put, List.setIfInBounds_toArray, List.set_cons_zero, List.set_cons_succ]
    refine anySkip (i := 5) (oi := { dst := some 100, op := Op.call { callee := Callee.value (Operand.func 19), args := #[Operand.const (Value.slice none 0 0), Operand.tmp 99], argTypes := #[24, 25] }, type := 24, pos := "law.go:105", after := #[{ on := 4, ground := Ground.data }, { on := 3, ground := Ground.chain }, { on := 3, ground := Ground.guard }], guard := some (3, true) }) rfl (by kernel_rfl) (by kernel_rfl) (by kernel_rfl) (fun _ _ _ h => h) (by rfl) ?_
    simp only [Act.put, List.setIfInBounds_toArray, List.set_cons_zero, List.set_cons_succ]
    refine anySkip (i := 6) (oi := { dst := some 101, op := Op.convert 24 9 (Operand.tmp 100), type := 9, pos := "law.go:105", after := #[{ on := 5, ground := Ground.data }, { on := 3, ground := Ground.guard }], guard := some (3, true) }) rfl (by kernel_rfl) (by kernel_rfl) (by kernel_rfl) (fun _ _ _ h => h) (by rfl) ?_
    simp only [Act.put, List.setIfInBounds_toArray, List.set_cons_zero, List.set_cons_succ]
    refine anySkip (i := 11) (oi := { dst := some 106, op := Op.call { callee := Callee.value (Operand.func 13), args := #[Operand.tmp 105], argTypes := #[22] }, type := 3, pos := "law.go:105", after := #[{ on := 10, ground := Ground.data }, { on := 5, ground := Ground.chain }, { on := 3, ground := Ground.guard }], guard := some (3, true) }) rfl (by kernel_rfl) (by kernel_rfl) (by kernel_rfl) (fun _ _ _ h => h) (by rfl) ?_
    simp only [Act.put, List.setIfInBounds_toArray, List.set_cons_zero, List.set_cons_succ]
    refine anySkip (i := 12) (oi := { dst := some 107, op := Op.binOp BinOp.sub 3 (Operand.tmp 104) (Operand.tmp 106) 3, type := 3, pos := "law.go:105", after := #[{ on := 9, ground := Ground.data }, { on := 11, ground := Ground.data }, { on := 3, ground := Ground.guard }], guard := some (3, true) }) rfl (by kernel_rfl) (by kernel_rfl) (by kernel_rfl) (fun _ _ _ h => h) (by rfl) ?_
    simp only [Act.put, List.setIfInBounds_toArray, List.set_cons_zero, List.set_cons_succ]
    refine anySkip (i := 13) (oi := { dst := some 108, op := Op.slice 24 (Operand.tmp 102) none (some (Operand.tmp 107)) none, type := 24, pos := "law.go:105", after := #[{ on := 7, ground := Ground.data }, { on := 12, ground := Ground.data }, { on := 3, ground := Ground.guard }], guard := some (3, true) }) rfl (by kernel_rfl) (by kernel_rfl) (by kernel_rfl) (fun _ _ _ h => h) (by rfl) ?_
    simp only [Act.put, List.setIfInBounds_toArray, List.set_cons_zero, List.set_cons_succ]
    refine anySkip (i := 14) (oi := { dst := some 109, op := Op.convert 24 9 (Operand.tmp 108), type := 9, pos := "law.go:105", after := #[{ on := 13, ground := Ground.data }, { on := 3, ground := Ground.guard }], guard := some (3, true) }) rfl (by kernel_rfl) (by kernel_rfl) (by kernel_rfl) (fun _ _ _ h => h) (by rfl) ?_
    simp only [Act.put, List.setIfInBounds_toArray, List.set_cons_zero, List.set_cons_succ]
    refine anySkip (i := 15) (oi := { dst := some 110, op := Op.binOp BinOp.neq 9 (Operand.tmp 101) (Operand.tmp 109) 9, type := 4, pos := "law.go:105", after := #[{ on := 6, ground := Ground.data }, { on := 14, ground := Ground.data }, { on := 3, ground := Ground.guard }], guard := some (3, true) }) rfl (by kernel_rfl) (by kernel_rfl) (by kernel_rfl) (fun _ _ _ h => h) (by rfl) ?_
    simp only [Act.put, List.setIfInBounds_toArray, List.set_cons_zero, List.set_cons_succ]
    refine anyTakeE (i := 16) (oi := { dst := some 111, op := Op.pick (Operand.tmp 98) (Operand.tmp 110) (Operand.const (Value.bool false)), type := 4, pos := "law.go:105", after := #[{ on := 3, ground := Ground.data }, { on := 15, ground := Ground.data }], guard := none }) rfl (by kernel_rfl) (by kernel_rfl) (by kernel_rfl) (fun _ _ _ _ h => h) (by rfl) ?_
    apply Exists.intro
    refine ⟨fun w' hk => ?_, ?_⟩
    · go_simp <;> with_reducible rfl
    simp only [Act.put, List.setIfInBounds_toArray, List.set_cons_zero, List.set_cons_succ]
    refine anyDone (by kernel_rfl) ?_ _
    obtain ⟨wz, hwz⟩ : ∃ wz, wz = wa := ⟨_, rfl⟩
    have hsbz : Src wz (· < w7.heap.size) Ab l.length (bcs l) := by rw [hwz]; exact hsba
    have KBz : Hid (Below w.heap.size w wz) := by rw [hwz]; exact KBa
    have zz : w7.heap.size ≤ wz.heap.size := by rw [hwz]; omega
    go_wp2_with fail
  all_goals
    rw [← hwz]
    refine (own_any wz _ Ab l.length cb l hsbz (fun b hb => by omega) (by omega)).mono ?_
    rintro e19 w19 ⟨v19, rfl, ho19, hb19⟩
    obtain ⟨A19, c19, rfl, _, _, hs19⟩ := own_shape ho19
    have hsb19 := hsbz.below' hb19 (fun b hb => by omega)
    have KB19 : Hid (Below w.heap.size w w19) := KBz.out.trans (hb19.mono KBz.out.size)
    have z19 : w7.heap.size ≤ w19.heap.size := by have := hb19.size; omega
    clear ho19 hb19 hsbz KBz zz hwz hsba KBa S12 heb
    go_wp2_with fail
    refine (read_any w19 _ A19 l.length c19 l hs19 (fun b hb => hb.2) (by omega)).mono ?_
    rintro e20 w20 ⟨gt, rfl, hr20, hb20⟩
    have hsb20 := hsb19.below' hb20 (fun b hb => by omega)
    have KB20 : Hid (Below w.heap.size w w20) := KB19.out.trans (hb20.mono KB19.out.size)
    have z20 : w7.heap.size ≤ w20.heap.size := by have := hb20.size; omega
    have gt1 := hr20.lo_le
    have gt2 := hr20.g_lt
    have CB := Lib.hid (hr20.block hlen)
    have NQ := Lib.hid (blk_back l)
    have hql := blk_lt l
    clear hr20 hb20 hsb19 hs19 KB19
    generalize blkS l 0 0 = r at *
    obtain ⟨q, kq, et⟩ := r
    simp only at CB NQ hql
    go_wp2_with fail
    refine CB.out.mono ?_
    rintro e21 w21 ⟨v21, rfl, ho21, hg21, hr21⟩
    obtain ⟨A20, c20, rfl, _, _, hsq21⟩ := own_shape ho21
    have hsb21 : Src w21 (· < w7.heap.size) Ab l.length (bcs l) := hsb20.grown hg21 (fun b hb => ⟨by omega, fun e => by injection e; omega⟩) (fun _ h => h)
    have KB21 : Hid (Below w.heap.size w w21) := KB20.out.grown hg21 KB20.out.size (fun r hr => by injection hr; have := KB20.out.size; omega)
    have T21 := Lib.hid hr21
    have z21 : w20.heap.size ≤ w21.heap.size := hg21.size
    clear hr21 hg21 hsb20 KB20 CB ho21
    go_wp2_with fail
    obtain ⟨we, hwe⟩ : ∃ we, we = w21.drew := ⟨_, rfl⟩
    have hsbe : Src we (· < w7.heap.size) Ab l.length (bcs l) := by rw [hwe]; exact ⟨hsb21.len, hsb21.lies⟩
    have hsqe : Src we (· < we.heap.size) A20 q.length (bcs q) := by rw [hwe]; exact ⟨hsq21.len, (hsq21.weak (S' := (· < w21.heap.size)) (fun b hb => hb.2)).lies⟩
    have KBe : Hid (Below w.heap.size w we) := by rw [hwe]; exact KB21.out.drew
    have T12 : Hid (Rdr we w19.heap.size w20.heap.size gt l kq et) := by rw [hwe]; exact T21.out.far (row := none) ⟨rfl, rfl, rfl, Nat.le_refl _, fun _ _ _ => rfl⟩ (by simp)
    have ze : w20.heap.size ≤ we.heap.size := by rw [hwe]; exact z21
    refine anyStart (fun b => b = gt) (by kernel_rfl) ?_
    rw [← hwe]
    clear hwe hsb21 hsq21 KB21 T21 z21
    by_cases het : et = 0
    · obtain ⟨hnq, hkq⟩ := NQ.out het
      have HNQ := Lib.hid hnq
      have heb : (((et : Nat) : Int) != 0) = false := by rw [het]; rfl
      have hkk : ((l.length : Int) - ((l.length - kq : Nat) : Int)) = (kq : Int) := by omega
      have hkc : (kq : Int) ≤ (cb : Int) := by omega
      have hwr : IntKind.i64.wrap (kq : Int) = (kq : Int) := by rw [IntKind.wrap_i64]; omega
      clear hnq
      refine anyTakeE (i := 0) (oi := { dst := some 117, op := Op.move (Operand.tmp 19), type := 22, pos := "law.go:110", after := #[], guard := none }) rfl (by kernel_rfl) (by kernel_rfl) (by kernel_rfl) (fun _ _ _ _ h => h) (by rfl) ?_
      apply Exists.intro
      refine ⟨fun w' hk => ?_, ?_⟩
      · go_simp <;> with_reducible rfl
      simp only [Act.put, List.setIfInBounds_toArray, List.set_cons_zero, List.set_cons_succ]
      refine anyCall (i := 1) (oi := { dst := some 118, op := Op.call { callee := Callee.value (Operand.func 17), args := #[Operand.tmp 117], argTypes := #[22] }, type := 30, pos := "law.go:110", after := #[{ on := 0, ground := Ground.data }], guard := none }) rfl (by kernel_rfl) (by rfl) ?_ ((T12.out.err).mono ?_)
      · go_simp
      rintro e1 w14b ⟨rfl, rfl⟩
      refine ⟨_, rfl, Keeps.refl _ _, ?_⟩
      simp only [Act.put, List.setIfInBounds_toArray, List.set_cons_zero, List.set_cons_succ]
      refine anyTakeE (i := 2) (oi := { dst := some 119, op := Op.binOp BinOp.neq 30 (Operand.tmp 118) (Operand.const (Value.int IntKind.i64 0)) 30, type := 4, pos := "law.go:110", after := #[{ on := 1, ground := Ground.data }], guard := none }) rfl (by kernel_rfl) (by kernel_rfl) (by kernel_rfl) (fun _ _ _ _ h => h) (by rfl) ?_
      apply Exists.intro
      refine ⟨fun w' hk => ?_, ?_⟩
      · go_simp <;> with_reducible rfl
      simp only [Act.put, List.setIfInBounds_toArray, List.set_cons_zero, List.set_cons_succ]
      refine anyTakeE (i := 3) (oi := { dst := some 120, op := Op.move (Operand.tmp 119), type := 4, pos := "law.go:110", after := #[{ on := 2, ground := Ground.data }, { on := 1, ground := Ground.chain }], guard := none }) rfl (by kernel_rfl) (by kernel_rfl) (by kernel_rfl) (fun _ _ _ _ h => h) (by rfl) ?_
      apply Exists.intro
      refine ⟨fun w' hk => ?_, ?_⟩
      · go_simp <;> with_reducible rfl
      simp only [Act.put, List.setIfInBounds_toArray, List.set_cons_zero, List.set_cons_succ]
      refine anyTakeE (i := 4) (oi := { dst := some 121, op := Op.move (Operand.tmp 20), type := 24, pos := "law.go:110", after := #[{ on := 3, ground := Ground.guard }], guard := some (3, false) }) rfl (by kernel_rfl) (by kernel_rfl) (by kernel_rfl) (fun _ _ _ _ h => h) (by rfl) ?_
      apply Exists.intro
      refine ⟨fun w' hk => ?_, ?_⟩
      · go_simp <;> with_reducible rfl
      simp only [Act.put, List.setIfInBounds_toArray, List.set_cons_zero, List.set_cons_succ]
      refine anyTakeE (i := 7) (oi := { dst := some 124, op := Op.move (Operand.tmp 0), type := 24, pos := "law.go:110", after := #[{ on := 3, ground := Ground.guard }], guard := some (3, false) }) rfl (by kernel_rfl) (by kernel_rfl) (by kernel_rfl) (fun _ _ _ _ h => h) (by rfl) ?_
      apply Exists.intro
      refine ⟨fun w' hk => ?_, ?_⟩
      · go_simp <;> with_reducible rfl
      simp only [Act.put, List.setIfInBounds_toArray, List.set_cons_zero, List.set_cons_succ]
      refine anyTakeE (i := 8) (oi := { dst := some 125, op := Op.move (Operand.tmp 0), type := 24, pos := "law.go:110", after := #[{ on := 3, ground := Ground.guard }], guard := some (3, false) }) rfl (by kernel_rfl) (by kernel_rfl) (by kernel_rfl) (fun _ _ _ _ h => h) (by rfl) ?_
      apply Exists.intro
      refine ⟨fun w' hk => ?_, ?_⟩
      · go_simp <;> with_reducible rfl
      simp only [Act.put, List.setIfInBounds_toArray, List.set_cons_zero, List.set_cons_succ]
      refine anyTakeE (i := 9) (oi := { dst := some 126, op := Op.call { callee := Callee.builtin Builtin.len, args := #[Operand.tmp 125], argTypes := #[24] }, type := 3, pos := "law.go:110", after := #[{ on := 8, ground := Ground.data }, { on := 3, ground := Ground.guard }], guard := some (3, false) }) rfl (by kernel_rfl) (by kernel_rfl) (by kernel_rfl) (fun _ _ _ _ h => h) (by rfl) ?_
      apply Exists.intro
      refine ⟨fun w' hk => ?_, ?_⟩
      · go_simp <;> with_reducible rfl
      simp only [Act.put, List.setIfInBounds_toArray, List.set_cons_zero, List.set_cons_succ]
      refine anyTakeE (i := 10) (oi := { dst := some 127, op := Op.move (Operand.tmp 19), type := 22, pos := "law.go:110", after := #[{ on := 3, ground := Ground.guard }], guard := some (3, false) }) rfl (by kernel_rfl) (by kernel_rfl) (by kernel_rfl) (fun _ _ _ _ h => h) (by rfl) ?_
      apply Exists.intro
      refine ⟨fun w' hk => ?_, ?_⟩
      · go_simp <;> with_reducible rfl
      simp only [Act.put, List.setIfInBounds_toArray, List.set_cons_zero, List.set_cons_succ]
      refine anyCall (i := 5) (oi := { dst := some 122, op := Op.call { callee := Callee.value (Operand.func 22), args := #[Operand.const (Value.slice none 0 0), Operand.tmp 121], argTypes := #[24, 24] }, type := 24, pos := "law.go:110", after := #[{ on := 4, ground := Ground.data }, { on := 3, ground := Ground.chain }, { on := 3, ground := Ground.guard }], guard := some (3, false) }) rfl (by kernel_rfl) (by rfl) ?_ ((block_any we (· < we.heap.size) none A20 0 0 q.length c20 [] q (Src.nil_ _ _ _) hsqe (fun _ h => h) (by omega) (by omega)).mono ?_)
      · go_simp
      rintro e5 wf ⟨v5, rfl, ho5, hb5⟩
      rw [List.nil_append, HNQ.out] at ho5
      have zb := hb5.size
      obtain ⟨A55, c55, rfl, _, _, hs55⟩ := own_shape ho5
      have SB := Lib.hid (T12.out.below hb5 T12.out.hi_le)
      have KBb : Below we.heap.size we wf := hb5
      refine ⟨_, rfl, Keeps.of_below hb5, ?_⟩
      clear ho5
      simp only [Act.put, List.setIfInBounds_toArray, List.set_cons_zero, List.set_cons_succ]
      refine anyTake (i := 6) (oi := { dst := some 123, op := Op.convert 24 9 (Operand.tmp 122), type := 9, pos := "law.go:110", after := #[{ on := 5, ground := Ground.data }, { on := 3, ground := Ground.guard }], guard := some (3, false) }) rfl (by kernel_rfl) (by kernel_rfl) (by kernel_rfl) (fun _ _ _ h => h) (by rfl) (fun w' hk => exec_convert rfl (conv_src (hs55.keeps hk (fun b hb => ⟨hb.2, by omega⟩)))) ?_
      simp only [Act.put, List.setIfInBounds_toArray, List.set_cons_zero, List.set_cons_succ]
      refine anyCall (i := 11) (oi := { dst := some 128, op := Op.call { callee := Callee.value (Operand.func 13), args := #[Operand.tmp 127], argTypes := #[22] }, type := 3, pos := "law.go:110", after := #[{ on := 10, ground := Ground.data }, { on := 5, ground := Ground.chain }, { on := 3, ground := Ground.guard }], guard := some (3, false) }) rfl (by kernel_rfl) (by rfl) ?_ ((SB.out.left hlen).mono ?_)
      · go_simp
      rintro e11 wc ⟨rfl, q11', rfl⟩
      refine ⟨_, rfl, Keeps.drewN _ _ _, ?_⟩
      simp only [Act.put, List.setIfInBounds_toArray, List.set_cons_zero, List.set_cons_succ]
      refine anyTakeE (i := 12) (oi := { dst := some 129, op := Op.binOp BinOp.sub 3 (Operand.tmp 126) (Operand.tmp 128) 3, type := 3, pos := "law.go:110", after := #[{ on := 9, ground := Ground.data }, { on := 11, ground := Ground.data }, { on := 3, ground := Ground.guard }], guard := some (3, false) }) rfl (by kernel_rfl) (by kernel_rfl) (by kernel_rfl) (fun _ _ _ _ h => h) (by rfl) ?_
      apply Exists.intro
      refine ⟨fun w' hk => ?_, ?_⟩
      · go_simp <;> with_reducible rfl
      simp only [Act.put, List.setIfInBounds_toArray, List.set_cons_zero, List.set_cons_succ]
      refine anyTakeE (i := 13) (oi := { dst := some 130, op := Op.slice 24 (Operand.tmp 124) none (some (Operand.tmp 129)) none, type := 24, pos := "law.go:110", after := #[{ on := 7, ground := Ground.data }, { on := 12, ground := Ground.data }, { on := 3, ground := Ground.guard }], guard := some (3, false) }) rfl (by kernel_rfl) (by kernel_rfl) (by kernel_rfl) (fun _ _ _ _ h => h) (by rfl) ?_
      apply Exists.intro
      refine ⟨fun w' hk => ?_, ?_⟩
      · go_simp <;> with_reducible rfl
      simp only [Act.put, List.setIfInBounds_toArray, List.set_cons_zero, List.set_cons_succ]
      refine anyTake (i := 14) (oi := { dst := some 131, op := Op.convert 24 9 (Operand.tmp 130), type := 9, pos := "law.go:110", after := #[{ on := 13, ground := Ground.data }, { on := 3, ground := Ground.guard }], guard := some (3, false) }) rfl (by kernel_rfl) (by kernel_rfl) (by kernel_rfl) (fun _ _ _ h => h) (by rfl) (fun w' hk => exec_convert rfl (conv_src (l := l.take kq) (((hsbe.below' KBb (fun b hb => by omega)).take_b kq hkq).keeps ((Keeps.drewN _ _ _).trans hk) (fun b hb => ⟨by omega, by omega⟩)))) ?_
      simp only [Act.put, List.setIfInBounds_toArray, List.set_cons_zero, List.set_cons_succ]
      refine anyTakeE (i := 15) (oi := { dst := some 132, op := Op.binOp BinOp.eql 9 (Operand.tmp 123) (Operand.tmp 131) 9, type := 4, pos := "law.go:110", after := #[{ on := 6, ground := Ground.data }, { on := 14, ground := Ground.data }, { on := 3, ground := Ground.guard }], guard := some (3, false) }) rfl (by kernel_rfl) (by kernel_rfl) (by kernel_rfl) (fun _ _ _ _ h => h) (by rfl) ?_
      apply Exists.intro
      refine ⟨fun w' hk => ?_, ?_⟩
      · go_simp <;> with_reducible rfl
      simp only [Act.put, List.setIfInBounds_toArray, List.set_cons_zero, List.set_cons_succ]
      refine anyTakeE (i := 16) (oi := { dst := some 133, op := Op.pick (Operand.tmp 120) (Operand.const (Value.bool true)) (Operand.tmp 132), type := 4, pos := "law.go:110", after := #[{ on := 3, ground := Ground.data }, { on := 15, ground := Ground.data }], guard := none }) rfl (by kernel_rfl) (by kernel_rfl) (by kernel_rfl) (fun _ _ _ _ h => h) (by rfl) ?_
      apply Exists.intro
      refine ⟨fun w' hk => ?_, ?_⟩
      · go_simp <;> with_reducible rfl
      simp only [Act.put, List.setIfInBounds_toArray, List.set_cons_zero, List.set_cons_succ]
      refine anyTakeE (i := 17) (oi := { dst := some 12, op := Op.assign (Operand.tmp 133), type := 4, pos := "law.go:110", after := #[{ on := 16, ground := Ground.data }, { on := 11, ground := Ground.chain }, { on := 0, ground := Ground.phase }, { on := 1, ground := Ground.phase }, { on := 2, ground := Ground.phase }, { on := 3, ground := Ground.phase }, { on := 4, ground := Ground.phase }, { on := 5, ground := Ground.phase }, { on := 6, ground := Ground.phase }, { on := 7, ground := Ground.phase }, { on := 8, ground := Ground.phase }, { on := 9, ground := Ground.phase }, { on := 10, ground := Ground.phase }, { on := 11, ground := Ground.phase }, { on := 12, ground := Ground.phase }, { on := 13, ground := Ground.phase }, { on := 14, ground := Ground.phase }, { on := 15, ground := Ground.phase }, { on := 16, ground := Ground.phase }], guard := none }) rfl (by kernel_rfl) (by kernel_rfl) (by kernel_rfl) (fun _ _ _ _ h => h) (by rfl) ?_
      apply Exists.intro
      refine ⟨fun w' hk => ?_, ?_⟩
      · go_simp <;> with_reducible rfl
      simp only [Act.put, List.setIfInBounds_toArray, List.set_cons_zero, List.set_cons_succ]
      refine anyDone (by kernel_rfl) ?_ _
      go_wp2
      go_ret
      exact ⟨rfl, below_drewN' (KBe.out.trans (KBb.mono KBe.out.size)) _⟩
    · have heb : (((et : Nat) : Int) != 0) = true := by simp; omega
      refine anyTakeE (i := 0) (oi := { dst := some 117, op := Op.move (Operand.tmp 19), type := 22, pos := "law.go:110", after := #[], guard := none }) rfl (by kernel_rfl) (by kernel_rfl) (by kernel_rfl) (fun _ _ _ _ h => h) (by rfl) ?_
      apply Exists.intro
      refine ⟨fun w' hk => ?_, ?_⟩
      · go_simp <;> with_reducible rfl
      simp only [Act.put, List.setIfInBounds_toArray, List.set_cons_zero, List.set_cons_succ]
      refine anyCall (i := 1) (oi := { dst := some 118, op := Op.call { callee := Callee.value (Operand.func 17), args := #[Operand.tmp 117], argTypes := #[22] }, type := 30, pos := "law.go:110", after := #[{ on := 0, ground := Ground.data }], guard := none }) rfl (by kernel_rfl) (by rfl) ?_ ((T12.out.err).mono ?_)
      · go_simp
      rintro e1 w14b ⟨rfl, rfl⟩
      refine ⟨_, rfl, Keeps.refl _ _, ?_⟩
      simp only [Act.put, List.setIfInBounds_toArray, List.set_cons_zero, List.set_cons_succ]
      refine anyTakeE (i := 2) (oi := { dst := some 119, op := Op.binOp BinOp.neq 30 (Operand.tmp 118) (Operand.const (Value.int IntKind.i64 0)) 30, type := 4, pos := "law.go:110", after := #[{ on := 1, ground := Ground.data }], guard := none }) rfl (by kernel_rfl) (by kernel_rfl) (by kernel_rfl) (fun _ _ _ _ h => h) (by rfl) ?_
      apply Exists.intro
      refine ⟨fun w' hk => ?_, ?_⟩
      · go_simp <;> with_reducible rfl
      simp only [Act.put, List.setIfInBounds_toArray, List.set_cons_zero, List.set_cons_succ]
      refine anyTakeE (i := 3) (oi := { dst := some 120, op := Op.move (Operand.tmp 119), type := 4, pos := "law.go:110", after := #[{ on := 2, ground := Ground.data }, { on := 1, ground := Ground.chain }], guard := none }) rfl (by kernel_rfl) (by kernel_rfl) (by kernel_rfl) (fun _ _ _ _ h => h) (by rfl) ?_
      apply Exists.intro
      refine ⟨fun w' hk => ?_, ?_⟩
      · go_simp <;> with_reducible rfl
      simp only [Act.put, List.setIfInBounds_toArray, List.set_cons_zero, List.set_cons_succ]
      refine anySkip (i := 4) (oi := { dst := some 121, op := Op.move (Operand.tmp 20), type := 24, pos := "law.go:110", after := #[{ on := 3, ground := Ground.guard }], guard := some (3, false) }) rfl (by kernel_rfl) (by kernel_rfl) (by kernel_rfl) (fun _ _ _ h => h) (by rfl) ?_
      simp only [Act.put, List.setIfInBounds_toArray, List.set_cons_zero, List.set_cons_succ]
      refine anySkip (i := 7) (oi := { dst := some 124, op := Op.move (Operand.tmp 0), type := 24, pos := "law.go:110", after := #[{ on := 3, ground := Ground.guard }], guard := some (3, false) }) rfl (by kernel_rfl) (by kernel_rfl) (by kernel_rfl) (fun _ _ _ h => h) (by rfl) ?_
      simp only [Act.put, List.setIfInBounds_toArray, List.set_cons_zero, List.set_cons_succ]
      refine anySkip (i := 8) (oi := { dst := some 125, op := Op.move (Operand.tmp 0), type := 24, pos := "law.go:110", after := #[{ on := 3, ground := Ground.guard }], guard := some (3, false) }) rfl (by kernel_rfl) (by kernel_rfl) (by kernel_rfl) (fun _ _ _ h => h) (by rfl) ?_
      simp only [Act.put, List.setIfInBounds_toArray, List.set_cons_zero, List.set_cons_succ]
      refine anySkip (i := 9) (oi := { dst := some 126, op := Op.call { callee := Callee.builtin Builtin.len, args := #[Operand.tmp 125], argTypes := #[24] }, type := 3, pos := "law.go:110", after := #[{ on := 8, ground := Ground.data }, { on := 3, ground := Ground.guard }], guard := some (3, false) }) rfl (by kernel_rfl) (by kernel_rfl) (by kernel_rfl) (fun _ _ _ h => h) (by rfl) ?_
      simp only [Act.put, List.setIfInBounds_toArray, List.set_cons_zero, List.set_cons_succ]
      refine anySkip (i := 10) (oi := { dst := some 127, op := Op.move (Operand.tmp 19), type := 22, pos := "law.go:110", after := #[{ on := 3, ground := Ground.guard }], guard := some (3, false) }) rfl (by kernel_rfl) (by kernel_rfl) (by kernel_rfl) (fun _ _ _ h => h) (by rfl) ?_
      simp only [Act.put, List.setIfInBounds_toArray, List.set_cons_zero, List.set_cons_succ]
      refine anySkip (i := 5) (oi := { dst := some 122, op := Op.call { callee := Callee.value (Operand.func 22), args := #[Operand.const (Value.slice none 0 0), Operand.tmp 121], argTypes := #[24, 24] }, type := 24, pos := "law.go:110", after := #[{ on := 4, ground := Ground.data }, { on := 3, ground := Ground.chain }, { on := 3, ground := Ground.guard }], guard := some (3, false) }) rfl (by kernel_rfl) (by kernel_rfl) (by kernel_rfl) (fun _ _ _ h => h) (by rfl) ?_
      simp only [Act.put, List.setIfInBounds_toArray, List.set_cons_zero, List.set_cons_succ]
      refine anySkip (i := 6) (oi := { dst := some 123, op := Op.convert 24 9 (Operand.tmp 122), type := 9, pos := "law.go:110", after := #[{ on := 5, ground := Ground.data }, { on := 3, ground := Ground.guard }], guard := some (3, false) }) rfl (by kernel_rfl) (by kernel_rfl) (by kernel_rfl) (fun _ _ _ h => h) (by rfl) ?_
      simp only [Act.put, List.setIfInBounds_toArray, List.set_cons_zero, List.set_cons_succ]
      refine anySkip (i := 11) (oi := { dst := some 128, op := Op.call { callee := Callee.value (Operand.func 13), args := #[Operand.tmp 127], argTypes := #[22] }, type := 3, pos := "law.go:110", after := #[{ on := 10, ground := Ground.data }, { on := 5, ground := Ground.chain }, { on := 3, ground := Ground.guard }], guard := some (3, false) }) rfl (by kernel_rfl) (by kernel_rfl) (by kernel_rfl) (fun _ _ _ h => h) (by rfl) ?_
      simp only [Act.put, List.setIfInBounds_toArray, List.set_cons_zero, List.set_cons_succ]
      refine anySkip (i := 12) (oi := { dst := some 129, op := Op.binOp BinOp.sub 3 (Operand.tmp 126) (Operand.tmp 128) 3, type := 3, pos := "law.go:110", after := #[{ on := 9, ground := Ground.data }, { on := 11, ground := Ground.data }, { on := 3, ground := Ground.guard }], guard := some (3, false) }) rfl (by kernel_rfl) (by kernel_rfl) (by kernel_rfl) (fun _ _ _ h => h) (by rfl) ?_
      simp only [Act.put, List.setIfInBounds_toArray, List.set_cons_zero, List.set_cons_succ]
      refine anySkip (i := 13) (oi := { dst := some 130, op := Op.slice 24 (Operand.tmp 124) none (some (Operand.tmp 129)) none, type := 24, pos := "law.go:110", after := #[{ on := 7, ground := Ground.data }, { on := 12, ground := Ground.data }, { on := 3, ground := Ground.guard }], guard := some (3, false) }) rfl (by kernel_rfl) (by kernel_rfl) (by kernel_rfl) (fun _ _ _ h => h) (by rfl) ?_
      simp only [Act.put, List.setIfInBounds_toArray, List.set_cons_zero, List.set_cons_succ]
      refine anySkip (i := 14) (oi := { dst := some 131, op := Op.convert 24 9 (Operand.tmp 130), type := 9, pos := "law.go:110", after := #[{ on := 13, ground := Ground.data }, { on := 3, ground := Ground.guard }], guard := some (3, false) }) rfl (by kernel_rfl) (by kernel_rfl) (by kernel_rfl) (fun _ _ _ h => h) (by rfl) ?_
      simp only [Act.put, List.setIfInBounds_toArray, List.set_cons_zero, List.set_cons_succ]
      refine anySkip (i := 15) (oi := { dst := some 132, op := Op.binOp BinOp.eql 9 (Operand.tmp 123) (Operand.tmp 131) 9, type := 4, pos := "law.go:110", after := #[{ on := 6, ground := Ground.data }, { on := 14, ground := Ground.data }, { on := 3, ground := Ground.guard }], guard := some (3, false) }) rfl (by kernel_rfl) (by kernel_rfl) (by kernel_rfl) (fun _ _ _ h => h) (by rfl) ?_
      simp only [Act.put, List.setIfInBounds_toArray, List.set_cons_zero, List.set_cons_succ]
      refine anyTakeE (i := 16) (oi := { dst := some 133, op := Op.pick (Operand.tmp 120) (Operand.const (Value.bool true)) (Operand.tmp 132), type := 4, pos := "law.go:110", after := #[{ on := 3, ground := Ground.data }, { on := 15, ground := Ground.data }], guard := none }) rfl (by kernel_rfl) (by kernel_rfl) (by kernel_rfl) (fun _ _ _ _ h => h) (by rfl) ?_
      apply Exists.intro
      refine ⟨fun w' hk => ?_, ?_⟩
      · go_simp <;> with_reducible rfl
      simp only [Act.put, List.setIfInBounds_toArray, List.set_cons_zero, List.set_cons_succ]
      refine anyTakeE (i := 17) (oi := { dst := some 12, op := Op.assign (Operand.tmp 133), type := 4, pos := "law.go:110", after := #[{ on := 16, ground := Ground.data }, { on := 11, ground := Ground.chain }, { on := 0, ground := Ground.phase }, { on := 1, ground := Ground.phase }, { on := 2, ground := Ground.phase }, { on := 3, ground := Ground.phase }, { on := 4, ground := Ground.phase }, { on := 5, ground := Ground.phase }, { on := 6, ground := Ground.phase }, { on := 7, ground := Ground.phase }, { on := 8, ground := Ground.phase }, { on := 9, ground := Ground.phase }, { on := 10, ground := Ground.phase }, { on := 11, ground := Ground.phase }, { on := 12, ground := Ground.phase }, { on := 13, ground := Ground.phase }, { on := 14, ground := Ground.phase }, { on := 15, ground := Ground.phase }, { on := 16, ground := Ground.phase }], guard := none }) rfl (by kernel_rfl) (by kernel_rfl) (by kernel_rfl) (fun _ _ _ _ h => h) (by rfl) ?_
      apply Exists.intro
      refine ⟨fun w' hk => ?_, ?_⟩
      · go_simp <;> with_reducible rfl
      simp only [Act.put, List.setIfInBounds_toArray, List.set_cons_zero, List.set_cons_succ]
      refine anyDone (by kernel_rfl) ?_ _
      go_wp2
      go_ret
      exact ⟨rfl, KBe.out⟩

set_option maxRecDepth 100000 in
set_option maxHeartbeats 1000000 in
theorem walkLong (w : World) (Ab Ap : Option Addr) (nb cb np cp : Nat) (d : Array Value) (n m size : Int) (h : 3000 < nb ∨ 3000 < np) (h0 : nb ≤ 9223372036854775807) (h1 : np ≤ 9223372036854775807) :
    Calls Try.prog 7 #[.slice Ab nb cb, .slice Ap np cp, .int .u64 n, .int .u64 m, .agg d, .int .i64 size] w fun e w' => e = .returned (.bool true) ∧ Below w.heap.size w w' := by
  have hd : ((3000 : Int) < (nb : Int)) ∨ ((nb : Int) ≤ 3000 ∧ (3000 : Int) < (np : Int)) := by omega
  rcases hd with hd | ⟨hd, hd'⟩
  all_goals
    go_enter Try.func7, Try.ntmps7
    go_wp2_with fail
    refine (lives_any _).mono ?_
    rintro e1 w1 ⟨rfl, hb1⟩
    have HB1 : Hid (Below w.heap.size w w1) := ((Below.refl _ w).alloc (Nat.le_refl _) _).trans (hb1.mono (by simp))
    clear hb1
    go_wp2
    go_ret
    exact ⟨rfl, HB1.out⟩

theorem walk (a0 : Option Addr) (len0 cap0 : Nat) (z0 : List Int) (a1 : Option Addr) (len1 cap1 : Nat) (z1 : List Int) (a2 a3 : Int) (z4 : List UInt8) (a5 : Int) (w : World) (w0 : IsRow .u8 w a0 len0 cap0 z0) (w1 : IsRow .u8 w a1 len1 cap1 z1)
    (w2 : (Lit.int .u64 a2).wf = true) (w3 : (Lit.int .u64 a3).wf = true) (w4 : z4.length = 32) (w5 : (Lit.int .i64 a5).wf = true) :
    Calls Try.prog 7 #[.slice a0 len0 cap0, .slice a1 len1 cap1, .int .u64 a2, .int .u64 a3, .agg (bcs z4).toArray, .int .i64 a5] w fun e w' => e = .returned (.bool true) ∧ Below w.heap.size w w' := by
  have b2 := bounds_u64 w2
  have b3 := bounds_u64 w3
  have b5 := bounds_i64 w5
  obtain ⟨n, rfl⟩ := Int.eq_ofNat_of_zero_le b2.1
  obtain ⟨m, rfl⟩ := Int.eq_ofNat_of_zero_le b3.1
  obtain ⟨h1, h2, l, hl⟩ := w0.bytes
  obtain ⟨h3, h4, p, hp⟩ := w1.bytes
  unfold maxLen at h2 h4
  by_cases h : len0 ≤ 3000 ∧ len1 ≤ 3000
  · exact walkB w a0 a1 len0 cap0 len1 cap1 l p z4 n m a5 hl hp h1 h.1 h.2 (by omega) (by omega) w4 b5
  · exact walkLong w a0 a1 len0 cap0 len1 cap1 _ n m a5 (by omega) (by omega) (by omega)

set_option maxRecDepth 100000 in
theorem lifted (os : Os) (started : os.Started) (H : Type) (enc : TypeId × Value → H) :
    ReturnsInHanded {} Try.checked os 7 .any (Rows.octetBackSpec.pre6 enc Try.prog Try.f7 Rows.octetBackRow.domain false) (Rows.octetBackSpec.post enc Try.prog Try.f7 false true false false) := by
  refine returnsInHanded_of_change (C := Try.checked) own started (by kernel_rfl) Try.func7
    (ChangeSpec.witness6 (enc := enc) (C := Try.checked) false ⟨#[], #[.slice none 0 0, .slice none 0 0, .int .u64 0, .int .u64 0, .agg (Array.replicate 32 (.int .u8 0)), .int .i64 0], []⟩ 8 (by kernel_rfl) (by kernel_rfl) (by kernel_rfl) (by kernel_rfl)) ?_
  intro W base args ds gs before hval0 hW hcnd _
  have hval : ∀ (j : Nat) t v, Try.f7.params[j]? = some t → args[j]? = some v → Value.okWide Try.prog W .any base t v := hval0
  have hW' := hW
  obtain ⟨p, q, hA0, hV, rfl, hfz, hnd⟩ := hW
  have hA : DataW.TrodAll enc Try.prog W 0 (fun _ => true) true Try.f7.params.toList args.toList ds p := hA0
  rw [Try.params7] at hA hval
  obtain ⟨v0, vs0, d0, ds0, p0, q0, hargs, rfl, rfl, h0, r0⟩ := trodAll_cons hA
  obtain ⟨v1, vs1, d1, ds1, p1, q1, rfl, rfl, rfl, h1, r1⟩ := trodAll_cons r0
  obtain ⟨v2, vs2, d2, ds2, p2, q2, rfl, rfl, rfl, h2, r2⟩ := trodAll_cons r1
  obtain ⟨v3, vs3, d3, ds3, p3, q3, rfl, rfl, rfl, h3, r3⟩ := trodAll_cons r2
  obtain ⟨v4, vs4, d4, ds4, p4, q4, rfl, rfl, rfl, h4, r4⟩ := trodAll_cons r3
  obtain ⟨v5, vs5, d5, ds5, p5, q5, rfl, rfl, rfl, h5, r5⟩ := trodAll_cons r4
  obtain ⟨rfl, rfl, rfl⟩ := trodAll_nil r5
  obtain rfl : args = #[v0, v1, v2, v3, v4, v5] := by cases args; simp_all
  obtain ⟨rfl, rfl⟩ := trodVars_none hV
  obtain ⟨a0, len0, cap0, rfl⟩ := okWide_slice Try.underlying24 (hval 0 24 v0 rfl rfl)
  have k0 := h0
  have lt0 : ∀ x ∈ p0, x.block < W.heap.size := by obtain ⟨m, hm⟩ := k0; exact DataW.trod_lt m _ _ _ hm
  obtain ⟨z0, w0⟩ : ∃ zs, IsRow .u8 W a0 len0 cap0 zs := by
    obtain ⟨fuel, hf⟩ := h0
    rcases open_ints Try.underlying24 Try.underlying5 (by kernel_rfl) hf with ⟨hcs, _⟩ | ⟨x, l, c, zs, hcs, _, hl, hm, hz, _, hcell, hwz⟩
    · simp [Value.cells] at hcs
      obtain ⟨rfl, rfl, rfl⟩ := hcs
      exact ⟨[], .inl ⟨rfl, rfl, rfl, rfl⟩⟩
    · simp [Value.cells] at hcs
      obtain ⟨rfl, rfl, rfl⟩ := hcs
      exact ⟨zs, .inr ⟨_, rfl, hl, hm, by simpa using hz, hcell, hwz⟩⟩
  obtain ⟨a1, len1, cap1, rfl⟩ := okWide_slice Try.underlying24 (hval 1 24 v1 rfl rfl)
  have k1 := h1
  have lt1 : ∀ x ∈ p1, x.block < W.heap.size := by obtain ⟨m, hm⟩ := k1; exact DataW.trod_lt m _ _ _ hm
  obtain ⟨z1, w1⟩ : ∃ zs, IsRow .u8 W a1 len1 cap1 zs := by
    obtain ⟨fuel, hf⟩ := h1
    rcases open_ints Try.underlying24 Try.underlying5 (by kernel_rfl) hf with ⟨hcs, _⟩ | ⟨x, l, c, zs, hcs, _, hl, hm, hz, _, hcell, hwz⟩
    · simp [Value.cells] at hcs
      obtain ⟨rfl, rfl, rfl⟩ := hcs
      exact ⟨[], .inl ⟨rfl, rfl, rfl, rfl⟩⟩
    · simp [Value.cells] at hcs
      obtain ⟨rfl, rfl, rfl⟩ := hcs
      exact ⟨zs, .inr ⟨_, rfl, hl, hm, by simpa using hz, hcell, hwz⟩⟩
  obtain ⟨a2, rfl, rfl, rfl, w2⟩ := open_int Try.underlying25 (hval 2 25 v2 rfl rfl) h2
  obtain ⟨a3, rfl, rfl, rfl, w3⟩ := open_int Try.underlying25 (hval 3 25 v3 rfl rfl) h3
  have k4 := h4
  have lt4 : ∀ x ∈ p4, x.block < W.heap.size := by obtain ⟨m, hm⟩ := k4; exact DataW.trod_lt m _ _ _ hm
  obtain ⟨z4, w4, rfl⟩ := open_arr Try.underlying33 Try.underlying5 (by kernel_rfl) (by kernel_rfl) (hval 4 33 v4 rfl rfl) h4
  obtain ⟨a5, rfl, rfl, rfl, w5⟩ := open_int Try.underlying3 (hval 5 3 v5 rfl rfl) h5
  clear hA0 hval0
  refine (walk a0 len0 cap0 z0 a1 len1 cap1 z1 a2 a3 z4 a5 W w0 w1 w2 w3 w4 w5).mono fun e W' ⟨he, bel⟩ => ?_
  subst he
  exact ⟨_, rfl, _, _, _, [], _, [], hW', trodAll_mk1 (shut_bool Try.underlying4 _), (trodAll_cons_mk (Below.trod laidOut (by kernel_rfl) (of_decide_eq_true (by kernel_rfl)) k0 bel lt0) (trodAll_cons_mk (Below.trod laidOut (by kernel_rfl) (of_decide_eq_true (by kernel_rfl)) k1 bel lt1) (trodAll_cons_mk (shut_int Try.underlying25 w2) (trodAll_cons_mk (shut_int Try.underlying25 w3) (trodAll_cons_mk (Below.trod laidOut (by kernel_rfl) (of_decide_eq_true (by kernel_rfl)) k4 bel lt4) (trodAll_cons_mk (shut_int Try.underlying3 w5) trodAll_mk0)))))), rfl, bel.frame _, fun h => by cases h⟩

theorem over : Rows.octetBackRow.holds Try.pinned (OpenSpec.ofChange Rows.octetBackSpec) :=
  OpenClaim.holds_of_wide 7 Try.f7 rfl rfl rfl rfl rfl rfl rfl ⟨rfl, rfl, rfl, rfl, rfl⟩ rfl rfl rfl rfl rfl (by kernel_rfl) Try.func7 (by kernel_rfl)
    (of_decide_eq_true (by kernel_rfl)) (by unfold Func.isWrapper; first | (rw [if_pos (by decide +kernel)]; kernel_rfl) | (rw [if_neg (by decide +kernel)]; exact ⟨rfl, rfl⟩))
    (fun os started H enc _ => lifted os started H enc)

/-- The statement. -/
theorem proved : Rows.OctetBackSaid := over
#print axioms proved
end Go.Proofs.Ytbcalhhfcnbppaa.octetBack
