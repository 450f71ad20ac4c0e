/- Parts: the first half of the walk. No statement is proved here. -/
import Derived.Test.YtphalfpmgbmcaaaPV
import Derived.StillTailTactics
import Derived.Test.YtphalfpmgbmcaaaI
import Derived.Test.YtphalfpmgbmcaaaJ
import Derived.Deep.DeepCutAuto
namespace Go.Proofs.Ytphalfpmgbmcaaa
open Go.RowKit
set_option linter.unusedVariables false
set_option linter.unusedSimpArgs false

theorem mk1 {w W : World} {A : Option Addr} {n c : Nat} {l : List UInt8} {S : Nat → Prop} (hb : Below w.heap.size w W) (h : Src w S A n (bcs l)) (hS : ∀ b, S b → b < w.heap.size) (hc : n ≤ c ∧ c ≤ maxLen) :
    ∃ W', W' = W.alloc (.cells #[.slice A n c] 30) ∧ Below W.heap.size W W' ∧ PT W' W.heap.size [l] :=
  ⟨_, rfl, below_alloc W _, PT.one (h.below' hb hS) (fun b h => Nat.lt_of_lt_of_le (hS b h) hb.size) hc⟩
theorem mk2 {w W : World} {A A2 : Option Addr} {n n2 c c2 : Nat} {l l2 : List UInt8} {S : Nat → Prop} (hb : Below w.heap.size w W) (h : Src w S A n (bcs l)) (h2 : Src w S A2 n2 (bcs l2)) (hS : ∀ b, S b → b < w.heap.size) (hc : n ≤ c ∧ c ≤ maxLen) (hc2 : n2 ≤ c2 ∧ c2 ≤ maxLen) :
    ∃ W', W' = W.alloc (.cells #[.slice A n c, .slice A2 n2 c2] 30) ∧ Below W.heap.size W W' ∧ PT W' W.heap.size [l, l2] :=
  ⟨_, rfl, below_alloc W _, PT.two (h.below' hb hS) (h2.below' hb hS) (fun b h => Nat.lt_of_lt_of_le (hS b h) hb.size) hc hc2⟩
theorem mk3 {w W : World} {A A2 A3 : Option Addr} {n n2 n3 c c2 c3 : Nat} {l l2 l3 : List UInt8} {S : Nat → Prop} (hb : Below w.heap.size w W) (h : Src w S A n (bcs l)) (h2 : Src w S A2 n2 (bcs l2)) (h3 : Src w S A3 n3 (bcs l3)) (hS : ∀ b, S b → b < w.heap.size) (hc : n ≤ c ∧ c ≤ maxLen) (hc2 : n2 ≤ c2 ∧ c2 ≤ maxLen) (hc3 : n3 ≤ c3 ∧ c3 ≤ maxLen) :
    ∃ W', W' = W.alloc (.cells #[.slice A n c, .slice A2 n2 c2, .slice A3 n3 c3] 30) ∧ Below W.heap.size W W' ∧ PT W' W.heap.size [l, l2, l3] :=
  ⟨_, rfl, below_alloc W _, PT.three (h.below' hb hS) (h2.below' hb hS) (h3.below' hb hS) (fun b h => Nat.lt_of_lt_of_le (hS b h) hb.size) hc hc2 hc3⟩

/-- Two rows of words. -/
structure Two8 (w0 : World) (g : Nat) (s t : St) (W : World) : Prop where
  r7 : W.heap[g]? = some (.cells (ucs s.words).toArray 27 (0, 0))
  r8 : W.heap[g + 1]? = some (.cells (ucs t.words).toArray 27 (0, 0))
  lt : g + 1 < W.heap.size
  bel : Below w0.heap.size w0 W
  le : w0.heap.size ≤ g
theorem Two8.keep {w0 : World} {g : Nat} {s t : St} {W W' : World} (h : Two8 w0 g s t W) (hb : Below W.heap.size W W') : Two8 w0 g s t W' := by
  have := h.lt
  have := h.le
  exact ⟨(hb.block _ (by omega)).trans h.r7, (hb.block _ (by omega)).trans h.r8, Nat.lt_of_lt_of_le h.lt hb.size, h.bel.trans (hb.mono (by omega)), h.le⟩

theorem sz27l (s : St) : (Try.prog.info? 27).map (·.size) = some (ucs s.words).length := by rw [size27]; rfl
theorem zero33 (w : World) : (zeroValue 33).run Try.prog w = .ok (.agg (zbs 128)) w := by kernel_rfl
/-- All but two rows are as they were. -/
structure Kp (g : Nat) (W W' : World) : Prop where
  size : W.heap.size ≤ W'.heap.size
  block : ∀ k, k < W.heap.size → k ≠ g → k ≠ g + 1 → W'.heap[k]? = W.heap[k]?
theorem Kp.refl (g : Nat) (W : World) : Kp g W W := ⟨Nat.le_refl _, fun _ _ _ _ => rfl⟩
theorem Kp.trans {g : Nat} {a b c : World} (h : Kp g a b) (k : Kp g b c) : Kp g a c := ⟨Nat.le_trans h.size k.size, fun i hi h1 h2 => (k.block i (Nat.lt_of_lt_of_le hi h.size) h1 h2).trans (h.block i hi h1 h2)⟩
theorem Kp.of_below {g : Nat} {W W' : World} (h : Below W.heap.size W W') : Kp g W W' := ⟨h.size, fun k hk _ _ => h.block k hk⟩
theorem Kp.src {g : Nat} {W W' : World} (h : Kp g W W') {S : Nat → Prop} {A : Option Addr} {n : Nat} {xs : List Value} (hs : Src W S A n xs) (hS : ∀ b, S b → g + 1 < b ∧ b < W.heap.size) : Src W' S A n xs :=
  hs.keep (fun b o hb => World.cell?_of_block (a := ⟨b, o, none⟩) (h.block b (hS b hb).2 (by have := (hS b hb).1; omega) (by have := (hS b hb).1; omega))) fun _ h => h
theorem Kp.stores {g : Nat} {W W1 W2 : World} (hl : g + 1 < W.heap.size) (g1 : W.grownBy W1 (some g)) (z1 : W1.heap.size = W.heap.size) (g2 : W1.grownBy W2 (some (g + 1))) (z2 : W2.heap.size = W1.heap.size) : Kp g W W2 :=
  ⟨by omega, fun k hk h1 h2 => (g2.block _ (by omega) (by simp; omega)).trans (g1.block _ hk (by simp; omega))⟩
theorem Two8.store7 {w0 : World} {g : Nat} {s t : St} {W W' : World} (h : Two8 w0 g s t W) (hg : W.grownBy W' (some g)) : W'.heap[g + 1]? = some (.cells (ucs t.words).toArray 27 (0, 0)) :=
  (hg.block _ (by have := h.lt; omega) (by simp)).trans h.r8
theorem Two8.store8 {w0 : World} {g : Nat} {s t s' t' : St} {W W1 W2 : World} (h : Two8 w0 g s t W) (a1 : W1.heap[g]? = some (.cells (ucs s'.words).toArray 27 (0, 0))) (g1 : W.grownBy W1 (some g)) (z1 : W1.heap.size = W.heap.size)
    (a2 : W2.heap[g + 1]? = some (.cells (ucs t'.words).toArray 27 (0, 0))) (g2 : W1.grownBy W2 (some (g + 1))) (z2 : W2.heap.size = W1.heap.size) : Two8 w0 g s' t' W2 ∧ Kp g W W2 := by
  have hl := h.lt
  have he := h.le
  refine ⟨⟨(g2.block _ (by omega) (by simp)).trans a1, a2, by omega, (h.bel.grown g1 (by omega) (fun r hr => by injection hr; omega)).grown g2 (by omega) (fun r hr => by injection hr; omega), he⟩, ?_⟩
  exact Kp.stores hl g1 z1 g2 z2

theorem sizes27 (s t : St) : (ucs s.words).toArray.size = (ucs t.words).toArray.size := rfl

/-- The memory at the end: the words and the two sums. -/
structure End4 (w0 : World) (g ga : Nat) (s t : List Nat) (x y : List UInt8) (W : World) : Prop where
  r7 : W.heap[g]? = some (.cells (ucs s).toArray 27 (0, 0))
  r8 : W.heap[g + 1]? = some (.cells (ucs t).toArray 27 (0, 0))
  ra : W.heap[ga]? = some (.cells (bcs x).toArray 22 (0, 0))
  rb : W.heap[ga + 1]? = some (.cells (bcs y).toArray 35 (0, 0))
  bel : Below w0.heap.size w0 W
theorem End4.drewN {w0 : World} {g ga : Nat} {s t : List Nat} {x y : List UInt8} {W : World} (h : End4 w0 g ga s t x y W) (k : Nat) : End4 w0 g ga s t x y (W.drewN k) := ⟨h.r7, h.r8, h.ra, h.rb, below_drewN' h.bel k⟩
theorem sz22 (l : List UInt8) (h : l.length = 64) : (Try.prog.info? 22).map (·.size) = some (bcs l).toArray.size := by rw [size22]; simp [bcs_len, h]
theorem sz35 (l : List UInt8) (h : l.length = 32) : (Try.prog.info? 35).map (·.size) = some (bcs l).toArray.size := by rw [size35]; simp [bcs_len, h]
theorem fit22 (l : List UInt8) (h : l.length = 64) : (bcs l).toArray.size = (zbs 64).size := by simp [bcs_len, h, zbs]
theorem fit35 (l : List UInt8) (h : l.length = 32) : (bcs l).toArray.size = (zbs 32).size := by simp [bcs_len, h, zbs]

theorem oct_get (l : List Nat) (n : Nat) (h : n < 64) : (oct l)[n]?.map bc = some (.int .u8 ((octb l n).toNat : Int)) := by
  unfold oct octN
  rw [List.getElem?_map, List.getElem?_range h]
  rfl

set_option maxRecDepth 100000 in
set_option maxHeartbeats 8000000 in
theorem parts_walk (w : World) (A : Option Addr) (n c : Nat) (l : List UInt8) (hs : Src w (· < w.heap.size) A n (bcs l)) (hn : n ≤ 2000) (hnc : n ≤ c) (hcm : c ≤ maxLen) (i k : Int)
    (hi : -9223372036854775808 ≤ i ∧ i ≤ 9223372036854775807) (hk : -9223372036854775808 ≤ k ∧ k ≤ 9223372036854775807) :
    Calls Try.prog 7 #[.slice A n c, .int .i64 i, .int .i64 k] w fun e w' => e = .returned (.bool true) ∧ Below w.heap.size w w' := by
  have hl := src_len hs
  have HS := Lib.hid hs
  have HC := Lib.hid hcm
  have HI := Lib.hid hi
  have HK := Lib.hid hk
  clear hs hcm hi hk
  subst hl
  have hd : decide ((2000 : Int) < (l.length : Int)) = false := by simp; omega
  go_enter Try.func7, Try.ntmps7
  go_wp2_with fail
  refine (lives_any w).mono ?_
  rintro e1 w1 ⟨rfl, hb1⟩
  have B1 := Lib.hid hb1
  have S1 := Lib.hid (HS.out.below' hb1 (fun b h => h))
  clear hb1
  go_wp2_with fail
  rw [show ((l.length : Int) + 1) = ((l.length + 1 : Nat) : Int) from by omega]
  refine (pick_any i (l.length + 1) HI.out (by omega) (by omega) w1).mono ?_
  rintro e2 w2 ⟨⟨a, ha, rfl⟩, rfl⟩
  go_wp2_with fail
  rw [show ((l.length : Int) - (a : Int) + 1) = ((l.length - a + 1 : Nat) : Int) from by omega]
  refine (pick_any k (l.length - a + 1) HK.out (by omega) (by omega) w2).mono ?_
  rintro e3 w3 ⟨⟨b, hb, rfl⟩, rfl⟩
  go_upto_region 7 with fail
  have hcm := HC.out
  have B2 : Hid (Below w.heap.size w w3) := B1.out
  have hz2 : w.heap.size ≤ w3.heap.size := B1.out.size
  rw [show ((a : Int) + (b : Int)) = ((a + b : Nat) : Int) from by omega]
  obtain ⟨kk, hkk⟩ : ∃ kk, kk = a + b := ⟨_, rfl⟩
  rw [← hkk]
  have hk1 : a ≤ kk := by omega
  have hk2 : kk ≤ l.length := by omega
  clear hkk hb
  go_cut [63] (fun s63 wx => s63 = .bool false ∧ Below w.heap.size w wx)
  case first =>
    obtain ⟨A1, c1, h1, q1, q1', _, r1, _⟩ := cut_any S1.out hnc hcm 0 a (by omega) (by omega)
    obtain ⟨A2, c2, h2, q2, q2', r2, _, _⟩ := cut_any S1.out hnc hcm a kk hk1 hk2
    obtain ⟨A3, c3, h3, q3, q3', _, _, r3⟩ := cut_any S1.out hnc hcm kk l.length hk2 (Nat.le_refl _)
    obtain ⟨A4, c4, h4, q4, q4', _, _, r4⟩ := cut_any S1.out hnc hcm a l.length (by omega) (Nat.le_refl _)
    have R1 := Lib.hid (r1 rfl)
    have R2 := Lib.hid r2
    have R3 := Lib.hid (r3 rfl)
    have R4 := Lib.hid (r4 rfl)
    have hSl : ∀ b, b < w.heap.size → b < w3.heap.size := fun b hb => Nat.lt_of_lt_of_le hb hz2
    have HS2 := Lib.hid S1.out
    have H1 := Lib.hid h1
    have H2 := Lib.hid h2
    have H3 := Lib.hid h3
    have H4 := Lib.hid h4
    have HC1 := Lib.hid (And.intro hnc hcm)
    have HC2 := Lib.hid (And.intro q1 q1')
    have HC3 := Lib.hid (And.intro q2 q2')
    have HC4 := Lib.hid (And.intro q3 q3')
    have HC5 := Lib.hid (And.intro q4 q4')
    have HLL := Lib.hid (show l.length ≤ 1000000000 by omega)
    have HSP3 := Lib.hid (split3 l a kk hk1 hk2)
    have HSP2 := Lib.hid (split2 l a (by omega))
    have E22 := Lib.hid (eq22 (sum512 l) (sum512_len l))
    have E35 := Lib.hid (eq35 (sum256 l) (sum256_len l))
    have FIN : Hid (∀ W, Below w3.heap.size w3 W → Below w.heap.size w W) := Lib.hid (fun W hW => B2.out.trans (hW.mono hz2))
    clear r1 r2 r3 r4 h1 h2 h3 h4 q1 q1' q2 q2' q3 q3' q4 q4' S1 B1 B2 HS HC HI HK hcm
    refine startW (fun _ => false) w3.heap.size (by kernel_rfl) ?_
    have HBW0 : Hid (Below w3.heap.size w3 w3.drew) := Lib.hid (below_drewN' (Below.refl w3.heap.size w3) 1)
    generalize w3.drew = W0 at *
    refine takeAE (i := 0) (oi := { dst := some 34, op := Op.move (Operand.tmp 0), type := 30, pos := "law.go:109", after := #[], guard := none }) rfl (by kernel_rfl) (by kernel_rfl) (by kernel_rfl) (fun _ _ _ _ h => h) (by rfl) ?_
    apply Exists.intro
    refine ⟨fun w' => ?_, ?_⟩
    · go_simp <;> with_reducible rfl
    simp only [Act.put, List.setIfInBounds_toArray, List.set_cons_zero, List.set_cons_succ]
    refine takeAE (i := 3) (oi := { dst := some 37, op := Op.move (Operand.tmp 0), type := 30, pos := "law.go:109", after := #[], guard := none }) rfl (by kernel_rfl) (by kernel_rfl) (by kernel_rfl) (fun _ _ _ _ h => h) (by rfl) ?_
    apply Exists.intro
    refine ⟨fun w' => ?_, ?_⟩
    · go_simp <;> with_reducible rfl
    simp only [Act.put, List.setIfInBounds_toArray, List.set_cons_zero, List.set_cons_succ]
    refine takeAE (i := 4) (oi := { dst := some 38, op := Op.move (Operand.tmp 1), type := 3, pos := "law.go:109", after := #[], guard := none }) rfl (by kernel_rfl) (by kernel_rfl) (by kernel_rfl) (fun _ _ _ _ h => h) (by rfl) ?_
    apply Exists.intro
    refine ⟨fun w' => ?_, ?_⟩
    · go_simp <;> with_reducible rfl
    simp only [Act.put, List.setIfInBounds_toArray, List.set_cons_zero, List.set_cons_succ]
    refine takeAE (i := 5) (oi := { dst := some 39, op := Op.slice 30 (Operand.tmp 37) none (some (Operand.tmp 38)) none, type := 30, pos := "law.go:109", after := #[{ on := 3, ground := Ground.data }, { on := 4, ground := Ground.data }], guard := none }) rfl (by kernel_rfl) (by kernel_rfl) (by kernel_rfl) (fun _ _ _ _ h => h) (by rfl) ?_
    refine ⟨.slice A1 (a - 0) c1, fun w' => exec_slice 30 (.tmp 37) none (some (.tmp 38)) rfl _ (R1.out w'), ?_⟩
    simp only [Act.put, List.setIfInBounds_toArray, List.set_cons_zero, List.set_cons_succ]
    refine takeAE (i := 6) (oi := { dst := some 40, op := Op.move (Operand.tmp 0), type := 30, pos := "law.go:109", after := #[], guard := none }) rfl (by kernel_rfl) (by kernel_rfl) (by kernel_rfl) (fun _ _ _ _ h => h) (by rfl) ?_
    apply Exists.intro
    refine ⟨fun w' => ?_, ?_⟩
    · go_simp <;> with_reducible rfl
    simp only [Act.put, List.setIfInBounds_toArray, List.set_cons_zero, List.set_cons_succ]
    refine takeAE (i := 7) (oi := { dst := some 41, op := Op.move (Operand.tmp 1), type := 3, pos := "law.go:109", after := #[], guard := none }) rfl (by kernel_rfl) (by kernel_rfl) (by kernel_rfl) (fun _ _ _ _ h => h) (by rfl) ?_
    apply Exists.intro
    refine ⟨fun w' => ?_, ?_⟩
    · go_simp <;> with_reducible rfl
    simp only [Act.put, List.setIfInBounds_toArray, List.set_cons_zero, List.set_cons_succ]
    refine takeAE (i := 8) (oi := { dst := some 42, op := Op.move (Operand.tmp 2), type := 3, pos := "law.go:109", after := #[], guard := none }) rfl (by kernel_rfl) (by kernel_rfl) (by kernel_rfl) (fun _ _ _ _ h => h) (by rfl) ?_
    apply Exists.intro
    refine ⟨fun w' => ?_, ?_⟩
    · go_simp <;> with_reducible rfl
    simp only [Act.put, List.setIfInBounds_toArray, List.set_cons_zero, List.set_cons_succ]
    refine takeAE (i := 9) (oi := { dst := some 43, op := Op.slice 30 (Operand.tmp 40) (some (Operand.tmp 41)) (some (Operand.tmp 42)) none, type := 30, pos := "law.go:109", after := #[{ on := 6, ground := Ground.data }, { on := 7, ground := Ground.data }, { on := 8, ground := Ground.data }], guard := none }) rfl (by kernel_rfl) (by kernel_rfl) (by kernel_rfl) (fun _ _ _ _ h => h) (by rfl) ?_
    refine ⟨.slice A2 (kk - a) c2, fun w' => exec_slice 30 (.tmp 40) (some (.tmp 41)) (some (.tmp 42)) rfl _ (R2.out w'), ?_⟩
    simp only [Act.put, List.setIfInBounds_toArray, List.set_cons_zero, List.set_cons_succ]
    refine takeAE (i := 10) (oi := { dst := some 44, op := Op.move (Operand.tmp 0), type := 30, pos := "law.go:109", after := #[], guard := none }) rfl (by kernel_rfl) (by kernel_rfl) (by kernel_rfl) (fun _ _ _ _ h => h) (by rfl) ?_
    apply Exists.intro
    refine ⟨fun w' => ?_, ?_⟩
    · go_simp <;> with_reducible rfl
    simp only [Act.put, List.setIfInBounds_toArray, List.set_cons_zero, List.set_cons_succ]
    refine takeAE (i := 11) (oi := { dst := some 45, op := Op.move (Operand.tmp 2), type := 3, pos := "law.go:109", after := #[], guard := none }) rfl (by kernel_rfl) (by kernel_rfl) (by kernel_rfl) (fun _ _ _ _ h => h) (by rfl) ?_
    apply Exists.intro
    refine ⟨fun w' => ?_, ?_⟩
    · go_simp <;> with_reducible rfl
    simp only [Act.put, List.setIfInBounds_toArray, List.set_cons_zero, List.set_cons_succ]
    refine takeAE (i := 12) (oi := { dst := some 46, op := Op.slice 30 (Operand.tmp 44) (some (Operand.tmp 45)) none none, type := 30, pos := "law.go:109", after := #[{ on := 10, ground := Ground.data }, { on := 11, ground := Ground.data }], guard := none }) rfl (by kernel_rfl) (by kernel_rfl) (by kernel_rfl) (fun _ _ _ _ h => h) (by rfl) ?_
    refine ⟨.slice A3 (l.length - kk) c3, fun w' => exec_slice 30 (.tmp 44) (some (.tmp 45)) none rfl _ (R3.out w'), ?_⟩
    simp only [Act.put, List.setIfInBounds_toArray, List.set_cons_zero, List.set_cons_succ]
    refine eachW [1, 13] (by kernel_rfl) (by simp) (two_ways ?_ ?_)
    · refine wpOp_value (i := 1) (oi := { dst := some 35, op := Op.buildSlice 49 1 #[(0, Operand.tmp 34)], type := 49, pos := "law.go:109", after := #[{ on := 0, ground := Ground.data }], guard := none }) rfl (by rfl) (exec_build1 W0 (.tmp 34) rfl rfl) ⟨fun _ => (below_alloc W0 _).mono HBW0.out.size, ?_⟩
      obtain ⟨W1, hW1, hbW1, hpW1⟩ := mk1 HBW0.out HS2.out hSl HC1.out
      rw [← hW1]
      clear hW1
      have PAW1 := Lib.hid hpW1
      have HBW1 := Lib.hid (HBW0.out.trans (hbW1.mono HBW0.out.size))
      clear hbW1 hpW1
      simp only [Act.put, List.setIfInBounds_toArray, List.set_cons_zero, List.set_cons_succ]
      refine eachW [2, 13] (by kernel_rfl) (by simp) (two_ways ?_ ?_)
      · refine wpOp_call (i := 2) (oi := { dst := some 36, op := Op.call { callee := Callee.value (Operand.func 9), args := #[Operand.tmp 35], argTypes := #[49] }, type := 22, pos := "law.go:109", after := #[{ on := 1, ground := Ground.data }], guard := none }) rfl (by rfl) ?_ ((PAW1.out.sum512 l (by simp) HLL.out 1 rfl (by omega)).mono ?_)
        · go_simp
        rintro eW2 W2 ⟨rfl, hbW2⟩
        refine ⟨_, rfl, fun _ => hbW2.mono HBW1.out.size, ?_⟩
        have HBW2 := Lib.hid (HBW1.out.trans (hbW2.mono HBW1.out.size))
        have PAW2 := Lib.hid (PAW1.out.keep hbW2)
        clear hbW2
        simp only [Act.put, List.setIfInBounds_toArray, List.set_cons_zero, List.set_cons_succ]
        refine opW _ _ (i := 13) (oi := { dst := some 47, op := Op.buildSlice 49 3 #[(0, Operand.tmp 39), (1, Operand.tmp 43), (2, Operand.tmp 46)], type := 49, pos := "law.go:109", after := #[{ on := 5, ground := Ground.data }, { on := 9, ground := Ground.data }, { on := 12, ground := Ground.data }], guard := none }) rfl (by kernel_rfl) (by rfl) (exec_build3 W2 (.tmp 39) (.tmp 43) (.tmp 46) rfl rfl rfl rfl) (fun _ => (below_alloc W2 _).mono HBW2.out.size) ?_
        obtain ⟨W3, hW3, hbW3, hpW3⟩ := mk3 HBW2.out H1.out H2.out H3.out hSl HC2.out HC3.out HC4.out
        rw [← hW3]
        clear hW3
        have PBW3 := Lib.hid hpW3
        have HBW3 := Lib.hid (HBW2.out.trans (hbW3.mono HBW2.out.size))
        have PAW3 := Lib.hid (PAW2.out.keep hbW3)
        clear hbW3 hpW3
        simp only [Act.put, List.setIfInBounds_toArray, List.set_cons_zero, List.set_cons_succ]
        refine callW (i := 14) (oi := { dst := some 48, op := Op.call { callee := Callee.value (Operand.func 9), args := #[Operand.tmp 47], argTypes := #[49] }, type := 22, pos := "law.go:109", after := #[{ on := 13, ground := Ground.data }, { on := 2, ground := Ground.chain }], guard := none }) rfl (by kernel_rfl) (by rfl) ?_ ((PBW3.out.sum512 l HSP3.out HLL.out 3 rfl (by omega)).mono ?_)
        · go_simp
        rintro eW4 W4 ⟨rfl, hbW4⟩
        refine ⟨_, rfl, fun _ => hbW4.mono HBW3.out.size, ?_⟩
        have HBW4 := Lib.hid (HBW3.out.trans (hbW4.mono HBW3.out.size))
        have PAW4 := Lib.hid (PAW3.out.keep hbW4)
        have PBW4 := Lib.hid (PBW3.out.keep hbW4)
        clear hbW4
        simp only [Act.put, List.setIfInBounds_toArray, List.set_cons_zero, List.set_cons_succ]
        refine takeAE (i := 15) (oi := { dst := some 49, op := Op.binOp BinOp.neq 22 (Operand.tmp 36) (Operand.tmp 48) 22, type := 4, pos := "law.go:109", after := #[{ on := 2, ground := Ground.data }, { on := 14, ground := Ground.data }], guard := none }) rfl (by kernel_rfl) (by kernel_rfl) (by kernel_rfl) (fun _ _ _ _ h => h) (by rfl) ?_
        apply Exists.intro
        refine ⟨fun w' => ?_, ?_⟩
        · have e := E22.out w'; go_simp <;> with_reducible rfl
        simp only [Act.put, List.setIfInBounds_toArray, List.set_cons_zero, List.set_cons_succ]
        refine takeAE (i := 16) (oi := { dst := some 50, op := Op.move (Operand.tmp 49), type := 4, pos := "law.go:109", after := #[{ on := 15, ground := Ground.data }, { on := 14, ground := Ground.chain }], guard := none }) rfl (by kernel_rfl) (by kernel_rfl) (by kernel_rfl) (fun _ _ _ _ h => h) (by rfl) ?_
        apply Exists.intro
        refine ⟨fun w' => ?_, ?_⟩
        · go_simp <;> with_reducible rfl
        simp only [Act.put, List.setIfInBounds_toArray, List.set_cons_zero, List.set_cons_succ]
        refine takeAE (i := 17) (oi := { dst := some 51, op := Op.move (Operand.tmp 0), type := 30, pos := "law.go:109", after := #[{ on := 16, ground := Ground.guard }], guard := some (16, false) }) rfl (by kernel_rfl) (by kernel_rfl) (by kernel_rfl) (fun _ _ _ _ h => h) (by rfl) ?_
        apply Exists.intro
        refine ⟨fun w' => ?_, ?_⟩
        · go_simp <;> with_reducible rfl
        simp only [Act.put, List.setIfInBounds_toArray, List.set_cons_zero, List.set_cons_succ]
        refine takeAE (i := 20) (oi := { dst := some 54, op := Op.move (Operand.tmp 0), type := 30, pos := "law.go:109", after := #[{ on := 16, ground := Ground.guard }], guard := some (16, false) }) rfl (by kernel_rfl) (by kernel_rfl) (by kernel_rfl) (fun _ _ _ _ h => h) (by rfl) ?_
        apply Exists.intro
        refine ⟨fun w' => ?_, ?_⟩
        · go_simp <;> with_reducible rfl
        simp only [Act.put, List.setIfInBounds_toArray, List.set_cons_zero, List.set_cons_succ]
        refine takeAE (i := 21) (oi := { dst := some 55, op := Op.move (Operand.tmp 1), type := 3, pos := "law.go:109", after := #[{ on := 16, ground := Ground.guard }], guard := some (16, false) }) rfl (by kernel_rfl) (by kernel_rfl) (by kernel_rfl) (fun _ _ _ _ h => h) (by rfl) ?_
        apply Exists.intro
        refine ⟨fun w' => ?_, ?_⟩
        · go_simp <;> with_reducible rfl
        simp only [Act.put, List.setIfInBounds_toArray, List.set_cons_zero, List.set_cons_succ]
        refine takeAE (i := 22) (oi := { dst := some 56, op := Op.slice 30 (Operand.tmp 54) none (some (Operand.tmp 55)) none, type := 30, pos := "law.go:109", after := #[{ on := 20, ground := Ground.data }, { on := 21, ground := Ground.data }, { on := 16, ground := Ground.guard }], guard := some (16, false) }) rfl (by kernel_rfl) (by kernel_rfl) (by kernel_rfl) (fun _ _ _ _ h => h) (by rfl) ?_
        refine ⟨.slice A1 (a - 0) c1, fun w' => exec_slice 30 (.tmp 54) none (some (.tmp 55)) rfl _ (R1.out w'), ?_⟩
        simp only [Act.put, List.setIfInBounds_toArray, List.set_cons_zero, List.set_cons_succ]
        refine takeAE (i := 23) (oi := { dst := some 57, op := Op.move (Operand.tmp 0), type := 30, pos := "law.go:109", after := #[{ on := 16, ground := Ground.guard }], guard := some (16, false) }) rfl (by kernel_rfl) (by kernel_rfl) (by kernel_rfl) (fun _ _ _ _ h => h) (by rfl) ?_
        apply Exists.intro
        refine ⟨fun w' => ?_, ?_⟩
        · go_simp <;> with_reducible rfl
        simp only [Act.put, List.setIfInBounds_toArray, List.set_cons_zero, List.set_cons_succ]
        refine takeAE (i := 24) (oi := { dst := some 58, op := Op.move (Operand.tmp 1), type := 3, pos := "law.go:109", after := #[{ on := 16, ground := Ground.guard }], guard := some (16, false) }) rfl (by kernel_rfl) (by kernel_rfl) (by kernel_rfl) (fun _ _ _ _ h => h) (by rfl) ?_
        apply Exists.intro
        refine ⟨fun w' => ?_, ?_⟩
        · go_simp <;> with_reducible rfl
        simp only [Act.put, List.setIfInBounds_toArray, List.set_cons_zero, List.set_cons_succ]
        refine takeAE (i := 25) (oi := { dst := some 59, op := Op.slice 30 (Operand.tmp 57) (some (Operand.tmp 58)) none none, type := 30, pos := "law.go:109", after := #[{ on := 23, ground := Ground.data }, { on := 24, ground := Ground.data }, { on := 16, ground := Ground.guard }], guard := some (16, false) }) rfl (by kernel_rfl) (by kernel_rfl) (by kernel_rfl) (fun _ _ _ _ h => h) (by rfl) ?_
        refine ⟨.slice A4 (l.length - a) c4, fun w' => exec_slice 30 (.tmp 57) (some (.tmp 58)) none rfl _ (R4.out w'), ?_⟩
        simp only [Act.put, List.setIfInBounds_toArray, List.set_cons_zero, List.set_cons_succ]
        refine eachW [18, 26] (by kernel_rfl) (by simp) (two_ways ?_ ?_)
        · refine wpOp_value (i := 18) (oi := { dst := some 52, op := Op.buildSlice 49 1 #[(0, Operand.tmp 51)], type := 49, pos := "law.go:109", after := #[{ on := 17, ground := Ground.data }, { on := 16, ground := Ground.guard }], guard := some (16, false) }) rfl (by rfl) (exec_build1 W4 (.tmp 51) rfl rfl) ⟨fun _ => (below_alloc W4 _).mono HBW4.out.size, ?_⟩
          obtain ⟨W5, hW5, hbW5, hpW5⟩ := mk1 HBW4.out HS2.out hSl HC1.out
          rw [← hW5]
          clear hW5
          have PAW5 := Lib.hid hpW5
          have HBW5 := Lib.hid (HBW4.out.trans (hbW5.mono HBW4.out.size))
          clear hbW5 hpW5
          simp only [Act.put, List.setIfInBounds_toArray, List.set_cons_zero, List.set_cons_succ]
          refine eachW [19, 26] (by kernel_rfl) (by simp) (two_ways ?_ ?_)
          · refine wpOp_call (i := 19) (oi := { dst := some 53, op := Op.call { callee := Callee.value (Operand.func 18), args := #[Operand.tmp 52], argTypes := #[49] }, type := 35, pos := "law.go:109", after := #[{ on := 18, ground := Ground.data }, { on := 16, ground := Ground.chain }, { on := 16, ground := Ground.guard }], guard := some (16, false) }) rfl (by rfl) ?_ ((PAW5.out.sum256 l (by simp) HLL.out 1 rfl (by omega)).mono ?_)
            · go_simp
            rintro eW6 W6 ⟨rfl, hbW6⟩
            refine ⟨_, rfl, fun _ => hbW6.mono HBW5.out.size, ?_⟩
            have HBW6 := Lib.hid (HBW5.out.trans (hbW6.mono HBW5.out.size))
            have PAW6 := Lib.hid (PAW5.out.keep hbW6)
            clear hbW6
            simp only [Act.put, List.setIfInBounds_toArray, List.set_cons_zero, List.set_cons_succ]
            refine opW _ _ (i := 26) (oi := { dst := some 60, op := Op.buildSlice 49 2 #[(0, Operand.tmp 56), (1, Operand.tmp 59)], type := 49, pos := "law.go:109", after := #[{ on := 22, ground := Ground.data }, { on := 25, ground := Ground.data }, { on := 16, ground := Ground.guard }], guard := some (16, false) }) rfl (by kernel_rfl) (by rfl) (exec_build2 W6 (.tmp 56) (.tmp 59) rfl rfl rfl) (fun _ => (below_alloc W6 _).mono HBW6.out.size) ?_
            obtain ⟨W7, hW7, hbW7, hpW7⟩ := mk2 HBW6.out H1.out H4.out hSl HC2.out HC5.out
            rw [← hW7]
            clear hW7
            have PBW7 := Lib.hid hpW7
            have HBW7 := Lib.hid (HBW6.out.trans (hbW7.mono HBW6.out.size))
            have PAW7 := Lib.hid (PAW6.out.keep hbW7)
            clear hbW7 hpW7
            simp only [Act.put, List.setIfInBounds_toArray, List.set_cons_zero, List.set_cons_succ]
            refine callW (i := 27) (oi := { dst := some 61, op := Op.call { callee := Callee.value (Operand.func 18), args := #[Operand.tmp 60], argTypes := #[49] }, type := 35, pos := "law.go:109", after := #[{ on := 26, ground := Ground.data }, { on := 19, ground := Ground.chain }, { on := 16, ground := Ground.guard }], guard := some (16, false) }) rfl (by kernel_rfl) (by rfl) ?_ ((PBW7.out.sum256 l HSP2.out HLL.out 2 rfl (by omega)).mono ?_)
            · go_simp
            rintro eW8 W8 ⟨rfl, hbW8⟩
            refine ⟨_, rfl, fun _ => hbW8.mono HBW7.out.size, ?_⟩
            have HBW8 := Lib.hid (HBW7.out.trans (hbW8.mono HBW7.out.size))
            have PAW8 := Lib.hid (PAW7.out.keep hbW8)
            have PBW8 := Lib.hid (PBW7.out.keep hbW8)
            clear hbW8
            simp only [Act.put, List.setIfInBounds_toArray, List.set_cons_zero, List.set_cons_succ]
            refine takeAE (i := 28) (oi := { dst := some 62, op := Op.binOp BinOp.neq 35 (Operand.tmp 53) (Operand.tmp 61) 35, type := 4, pos := "law.go:109", after := #[{ on := 19, ground := Ground.data }, { on := 27, ground := Ground.data }, { on := 16, ground := Ground.guard }], guard := some (16, false) }) rfl (by kernel_rfl) (by kernel_rfl) (by kernel_rfl) (fun _ _ _ _ h => h) (by rfl) ?_
            apply Exists.intro
            refine ⟨fun w' => ?_, ?_⟩
            · have e := E35.out w'; go_simp <;> with_reducible rfl
            simp only [Act.put, List.setIfInBounds_toArray, List.set_cons_zero, List.set_cons_succ]
            refine takeAE (i := 29) (oi := { dst := some 63, op := Op.pick (Operand.tmp 50) (Operand.const (Value.bool true)) (Operand.tmp 62), type := 4, pos := "law.go:109", after := #[{ on := 16, ground := Ground.data }, { on := 28, ground := Ground.data }], guard := none }) rfl (by kernel_rfl) (by kernel_rfl) (by kernel_rfl) (fun _ _ _ _ h => h) (by rfl) ?_
            apply Exists.intro
            refine ⟨fun w' => ?_, ?_⟩
            · go_simp <;> with_reducible rfl
            simp only [Act.put, List.setIfInBounds_toArray, List.set_cons_zero, List.set_cons_succ]
            refine doneW (by kernel_rfl) ?_ _
            have HBF := HBW8.out
            (first | (go_wp2_with fail; go_meet; exact ⟨rfl, FIN.out _ HBF⟩) | (go_meet; exact ⟨rfl, FIN.out _ HBF⟩) | fail)
          · refine wpOp_value (i := 26) (oi := { dst := some 60, op := Op.buildSlice 49 2 #[(0, Operand.tmp 56), (1, Operand.tmp 59)], type := 49, pos := "law.go:109", after := #[{ on := 22, ground := Ground.data }, { on := 25, ground := Ground.data }, { on := 16, ground := Ground.guard }], guard := some (16, false) }) rfl (by rfl) (exec_build2 W5 (.tmp 56) (.tmp 59) rfl rfl rfl) ⟨fun _ => (below_alloc W5 _).mono HBW5.out.size, ?_⟩
            obtain ⟨W9, hW9, hbW9, hpW9⟩ := mk2 HBW5.out H1.out H4.out hSl HC2.out HC5.out
            rw [← hW9]
            clear hW9
            have PBW9 := Lib.hid hpW9
            have HBW9 := Lib.hid (HBW5.out.trans (hbW9.mono HBW5.out.size))
            have PAW9 := Lib.hid (PAW5.out.keep hbW9)
            clear hbW9 hpW9
            simp only [Act.put, List.setIfInBounds_toArray, List.set_cons_zero, List.set_cons_succ]
            refine callW (i := 19) (oi := { dst := some 53, op := Op.call { callee := Callee.value (Operand.func 18), args := #[Operand.tmp 52], argTypes := #[49] }, type := 35, pos := "law.go:109", after := #[{ on := 18, ground := Ground.data }, { on := 16, ground := Ground.chain }, { on := 16, ground := Ground.guard }], guard := some (16, false) }) rfl (by kernel_rfl) (by rfl) ?_ ((PAW9.out.sum256 l (by simp) HLL.out 1 rfl (by omega)).mono ?_)
            · go_simp
            rintro eW10 W10 ⟨rfl, hbW10⟩
            refine ⟨_, rfl, fun _ => hbW10.mono HBW9.out.size, ?_⟩
            have HBW10 := Lib.hid (HBW9.out.trans (hbW10.mono HBW9.out.size))
            have PAW10 := Lib.hid (PAW9.out.keep hbW10)
            have PBW10 := Lib.hid (PBW9.out.keep hbW10)
            clear hbW10
            simp only [Act.put, List.setIfInBounds_toArray, List.set_cons_zero, List.set_cons_succ]
            refine callW (i := 27) (oi := { dst := some 61, op := Op.call { callee := Callee.value (Operand.func 18), args := #[Operand.tmp 60], argTypes := #[49] }, type := 35, pos := "law.go:109", after := #[{ on := 26, ground := Ground.data }, { on := 19, ground := Ground.chain }, { on := 16, ground := Ground.guard }], guard := some (16, false) }) rfl (by kernel_rfl) (by rfl) ?_ ((PBW10.out.sum256 l HSP2.out HLL.out 2 rfl (by omega)).mono ?_)
            · go_simp
            rintro eW11 W11 ⟨rfl, hbW11⟩
            refine ⟨_, rfl, fun _ => hbW11.mono HBW10.out.size, ?_⟩
            have HBW11 := Lib.hid (HBW10.out.trans (hbW11.mono HBW10.out.size))
            have PAW11 := Lib.hid (PAW10.out.keep hbW11)
            have PBW11 := Lib.hid (PBW10.out.keep hbW11)
            clear hbW11
            simp only [Act.put, List.setIfInBounds_toArray, List.set_cons_zero, List.set_cons_succ]
            refine takeAE (i := 28) (oi := { dst := some 62, op := Op.binOp BinOp.neq 35 (Operand.tmp 53) (Operand.tmp 61) 35, type := 4, pos := "law.go:109", after := #[{ on := 19, ground := Ground.data }, { on := 27, ground := Ground.data }, { on := 16, ground := Ground.guard }], guard := some (16, false) }) rfl (by kernel_rfl) (by kernel_rfl) (by kernel_rfl) (fun _ _ _ _ h => h) (by rfl) ?_
            apply Exists.intro
            refine ⟨fun w' => ?_, ?_⟩
            · have e := E35.out w'; go_simp <;> with_reducible rfl
            simp only [Act.put, List.setIfInBounds_toArray, List.set_cons_zero, List.set_cons_succ]
            refine takeAE (i := 29) (oi := { dst := some 63, op := Op.pick (Operand.tmp 50) (Operand.const (Value.bool true)) (Operand.tmp 62), type := 4, pos := "law.go:109", after := #[{ on := 16, ground := Ground.data }, { on := 28, ground := Ground.data }], guard := none }) rfl (by kernel_rfl) (by kernel_rfl) (by kernel_rfl) (fun _ _ _ _ h => h) (by rfl) ?_
            apply Exists.intro
            refine ⟨fun w' => ?_, ?_⟩
            · go_simp <;> with_reducible rfl
            simp only [Act.put, List.setIfInBounds_toArray, List.set_cons_zero, List.set_cons_succ]
            refine doneW (by kernel_rfl) ?_ _
            have HBF := HBW11.out
            (first | (go_wp2_with fail; go_meet; exact ⟨rfl, FIN.out _ HBF⟩) | (go_meet; exact ⟨rfl, FIN.out _ HBF⟩) | fail)
        · refine wpOp_value (i := 26) (oi := { dst := some 60, op := Op.buildSlice 49 2 #[(0, Operand.tmp 56), (1, Operand.tmp 59)], type := 49, pos := "law.go:109", after := #[{ on := 22, ground := Ground.data }, { on := 25, ground := Ground.data }, { on := 16, ground := Ground.guard }], guard := some (16, false) }) rfl (by rfl) (exec_build2 W4 (.tmp 56) (.tmp 59) rfl rfl rfl) ⟨fun _ => (below_alloc W4 _).mono HBW4.out.size, ?_⟩
          obtain ⟨W12, hW12, hbW12, hpW12⟩ := mk2 HBW4.out H1.out H4.out hSl HC2.out HC5.out
          rw [← hW12]
          clear hW12
          have PBW12 := Lib.hid hpW12
          have HBW12 := Lib.hid (HBW4.out.trans (hbW12.mono HBW4.out.size))
          clear hbW12 hpW12
          simp only [Act.put, List.setIfInBounds_toArray, List.set_cons_zero, List.set_cons_succ]
          refine opW _ _ (i := 18) (oi := { dst := some 52, op := Op.buildSlice 49 1 #[(0, Operand.tmp 51)], type := 49, pos := "law.go:109", after := #[{ on := 17, ground := Ground.data }, { on := 16, ground := Ground.guard }], guard := some (16, false) }) rfl (by kernel_rfl) (by rfl) (exec_build1 W12 (.tmp 51) rfl rfl) (fun _ => (below_alloc W12 _).mono HBW12.out.size) ?_
          obtain ⟨W13, hW13, hbW13, hpW13⟩ := mk1 HBW12.out HS2.out hSl HC1.out
          rw [← hW13]
          clear hW13
          have PAW13 := Lib.hid hpW13
          have HBW13 := Lib.hid (HBW12.out.trans (hbW13.mono HBW12.out.size))
          have PBW13 := Lib.hid (PBW12.out.keep hbW13)
          clear hbW13 hpW13
          simp only [Act.put, List.setIfInBounds_toArray, List.set_cons_zero, List.set_cons_succ]
          refine callW (i := 19) (oi := { dst := some 53, op := Op.call { callee := Callee.value (Operand.func 18), args := #[Operand.tmp 52], argTypes := #[49] }, type := 35, pos := "law.go:109", after := #[{ on := 18, ground := Ground.data }, { on := 16, ground := Ground.chain }, { on := 16, ground := Ground.guard }], guard := some (16, false) }) rfl (by kernel_rfl) (by rfl) ?_ ((PAW13.out.sum256 l (by simp) HLL.out 1 rfl (by omega)).mono ?_)
          · go_simp
          rintro eW14 W14 ⟨rfl, hbW14⟩
          refine ⟨_, rfl, fun _ => hbW14.mono HBW13.out.size, ?_⟩
          have HBW14 := Lib.hid (HBW13.out.trans (hbW14.mono HBW13.out.size))
          have PBW14 := Lib.hid (PBW13.out.keep hbW14)
          have PAW14 := Lib.hid (PAW13.out.keep hbW14)
          clear hbW14
          simp only [Act.put, List.setIfInBounds_toArray, List.set_cons_zero, List.set_cons_succ]
          refine callW (i := 27) (oi := { dst := some 61, op := Op.call { callee := Callee.value (Operand.func 18), args := #[Operand.tmp 60], argTypes := #[49] }, type := 35, pos := "law.go:109", after := #[{ on := 26, ground := Ground.data }, { on := 19, ground := Ground.chain }, { on := 16, ground := Ground.guard }], guard := some (16, false) }) rfl (by kernel_rfl) (by rfl) ?_ ((PBW14.out.sum256 l HSP2.out HLL.out 2 rfl (by omega)).mono ?_)
          · go_simp
          rintro eW15 W15 ⟨rfl, hbW15⟩
          refine ⟨_, rfl, fun _ => hbW15.mono HBW14.out.size, ?_⟩
          have HBW15 := Lib.hid (HBW14.out.trans (hbW15.mono HBW14.out.size))
          have PBW15 := Lib.hid (PBW14.out.keep hbW15)
          have PAW15 := Lib.hid (PAW14.out.keep hbW15)
          clear hbW15
          simp only [Act.put, List.setIfInBounds_toArray, List.set_cons_zero, List.set_cons_succ]
          refine takeAE (i := 28) (oi := { dst := some 62, op := Op.binOp BinOp.neq 35 (Operand.tmp 53) (Operand.tmp 61) 35, type := 4, pos := "law.go:109", after := #[{ on := 19, ground := Ground.data }, { on := 27, ground := Ground.data }, { on := 16, ground := Ground.guard }], guard := some (16, false) }) rfl (by kernel_rfl) (by kernel_rfl) (by kernel_rfl) (fun _ _ _ _ h => h) (by rfl) ?_
          apply Exists.intro
          refine ⟨fun w' => ?_, ?_⟩
          · have e := E35.out w'; go_simp <;> with_reducible rfl
          simp only [Act.put, List.setIfInBounds_toArray, List.set_cons_zero, List.set_cons_succ]
          refine takeAE (i := 29) (oi := { dst := some 63, op := Op.pick (Operand.tmp 50) (Operand.const (Value.bool true)) (Operand.tmp 62), type := 4, pos := "law.go:109", after := #[{ on := 16, ground := Ground.data }, { on := 28, ground := Ground.data }], guard := none }) rfl (by kernel_rfl) (by kernel_rfl) (by kernel_rfl) (fun _ _ _ _ h => h) (by rfl) ?_
          apply Exists.intro
          refine ⟨fun w' => ?_, ?_⟩
          · go_simp <;> with_reducible rfl
          simp only [Act.put, List.setIfInBounds_toArray, List.set_cons_zero, List.set_cons_succ]
          refine doneW (by kernel_rfl) ?_ _
          have HBF := HBW15.out
          (first | (go_wp2_with fail; go_meet; exact ⟨rfl, FIN.out _ HBF⟩) | (go_meet; exact ⟨rfl, FIN.out _ HBF⟩) | fail)
      · refine wpOp_value (i := 13) (oi := { dst := some 47, op := Op.buildSlice 49 3 #[(0, Operand.tmp 39), (1, Operand.tmp 43), (2, Operand.tmp 46)], type := 49, pos := "law.go:109", after := #[{ on := 5, ground := Ground.data }, { on := 9, ground := Ground.data }, { on := 12, ground := Ground.data }], guard := none }) rfl (by rfl) (exec_build3 W1 (.tmp 39) (.tmp 43) (.tmp 46) rfl rfl rfl rfl) ⟨fun _ => (below_alloc W1 _).mono HBW1.out.size, ?_⟩
        obtain ⟨W16, hW16, hbW16, hpW16⟩ := mk3 HBW1.out H1.out H2.out H3.out hSl HC2.out HC3.out HC4.out
        rw [← hW16]
        clear hW16
        have PBW16 := Lib.hid hpW16
        have HBW16 := Lib.hid (HBW1.out.trans (hbW16.mono HBW1.out.size))
        have PAW16 := Lib.hid (PAW1.out.keep hbW16)
        clear hbW16 hpW16
        simp only [Act.put, List.setIfInBounds_toArray, List.set_cons_zero, List.set_cons_succ]
        refine callW (i := 2) (oi := { dst := some 36, op := Op.call { callee := Callee.value (Operand.func 9), args := #[Operand.tmp 35], argTypes := #[49] }, type := 22, pos := "law.go:109", after := #[{ on := 1, ground := Ground.data }], guard := none }) rfl (by kernel_rfl) (by rfl) ?_ ((PAW16.out.sum512 l (by simp) HLL.out 1 rfl (by omega)).mono ?_)
        · go_simp
        rintro eW17 W17 ⟨rfl, hbW17⟩
        refine ⟨_, rfl, fun _ => hbW17.mono HBW16.out.size, ?_⟩
        have HBW17 := Lib.hid (HBW16.out.trans (hbW17.mono HBW16.out.size))
        have PAW17 := Lib.hid (PAW16.out.keep hbW17)
        have PBW17 := Lib.hid (PBW16.out.keep hbW17)
        clear hbW17
        simp only [Act.put, List.setIfInBounds_toArray, List.set_cons_zero, List.set_cons_succ]
        refine callW (i := 14) (oi := { dst := some 48, op := Op.call { callee := Callee.value (Operand.func 9), args := #[Operand.tmp 47], argTypes := #[49] }, type := 22, pos := "law.go:109", after := #[{ on := 13, ground := Ground.data }, { on := 2, ground := Ground.chain }], guard := none }) rfl (by kernel_rfl) (by rfl) ?_ ((PBW17.out.sum512 l HSP3.out HLL.out 3 rfl (by omega)).mono ?_)
        · go_simp
        rintro eW18 W18 ⟨rfl, hbW18⟩
        refine ⟨_, rfl, fun _ => hbW18.mono HBW17.out.size, ?_⟩
        have HBW18 := Lib.hid (HBW17.out.trans (hbW18.mono HBW17.out.size))
        have PAW18 := Lib.hid (PAW17.out.keep hbW18)
        have PBW18 := Lib.hid (PBW17.out.keep hbW18)
        clear hbW18
        simp only [Act.put, List.setIfInBounds_toArray, List.set_cons_zero, List.set_cons_succ]
        refine takeAE (i := 15) (oi := { dst := some 49, op := Op.binOp BinOp.neq 22 (Operand.tmp 36) (Operand.tmp 48) 22, type := 4, pos := "law.go:109", after := #[{ on := 2, ground := Ground.data }, { on := 14, ground := Ground.data }], guard := none }) rfl (by kernel_rfl) (by kernel_rfl) (by kernel_rfl) (fun _ _ _ _ h => h) (by rfl) ?_
        apply Exists.intro
        refine ⟨fun w' => ?_, ?_⟩
        · have e := E22.out w'; go_simp <;> with_reducible rfl
        simp only [Act.put, List.setIfInBounds_toArray, List.set_cons_zero, List.set_cons_succ]
        refine takeAE (i := 16) (oi := { dst := some 50, op := Op.move (Operand.tmp 49), type := 4, pos := "law.go:109", after := #[{ on := 15, ground := Ground.data }, { on := 14, ground := Ground.chain }], guard := none }) rfl (by kernel_rfl) (by kernel_rfl) (by kernel_rfl) (fun _ _ _ _ h => h) (by rfl) ?_
        apply Exists.intro
        refine ⟨fun w' => ?_, ?_⟩
        · go_simp <;> with_reducible rfl
        simp only [Act.put, List.setIfInBounds_toArray, List.set_cons_zero, List.set_cons_succ]
        refine takeAE (i := 17) (oi := { dst := some 51, op := Op.move (Operand.tmp 0), type := 30, pos := "law.go:109", after := #[{ on := 16, ground := Ground.guard }], guard := some (16, false) }) rfl (by kernel_rfl) (by kernel_rfl) (by kernel_rfl) (fun _ _ _ _ h => h) (by rfl) ?_
        apply Exists.intro
        refine ⟨fun w' => ?_, ?_⟩
        · go_simp <;> with_reducible rfl
        simp only [Act.put, List.setIfInBounds_toArray, List.set_cons_zero, List.set_cons_succ]
        refine takeAE (i := 20) (oi := { dst := some 54, op := Op.move (Operand.tmp 0), type := 30, pos := "law.go:109", after := #[{ on := 16, ground := Ground.guard }], guard := some (16, false) }) rfl (by kernel_rfl) (by kernel_rfl) (by kernel_rfl) (fun _ _ _ _ h => h) (by rfl) ?_
        apply Exists.intro
        refine ⟨fun w' => ?_, ?_⟩
        · go_simp <;> with_reducible rfl
        simp only [Act.put, List.setIfInBounds_toArray, List.set_cons_zero, List.set_cons_succ]
        refine takeAE (i := 21) (oi := { dst := some 55, op := Op.move (Operand.tmp 1), type := 3, pos := "law.go:109", after := #[{ on := 16, ground := Ground.guard }], guard := some (16, false) }) rfl (by kernel_rfl) (by kernel_rfl) (by kernel_rfl) (fun _ _ _ _ h => h) (by rfl) ?_
        apply Exists.intro
        refine ⟨fun w' => ?_, ?_⟩
        · go_simp <;> with_reducible rfl
        simp only [Act.put, List.setIfInBounds_toArray, List.set_cons_zero, List.set_cons_succ]
        refine takeAE (i := 22) (oi := { dst := some 56, op := Op.slice 30 (Operand.tmp 54) none (some (Operand.tmp 55)) none, type := 30, pos := "law.go:109", after := #[{ on := 20, ground := Ground.data }, { on := 21, ground := Ground.data }, { on := 16, ground := Ground.guard }], guard := some (16, false) }) rfl (by kernel_rfl) (by kernel_rfl) (by kernel_rfl) (fun _ _ _ _ h => h) (by rfl) ?_
        refine ⟨.slice A1 (a - 0) c1, fun w' => exec_slice 30 (.tmp 54) none (some (.tmp 55)) rfl _ (R1.out w'), ?_⟩
        simp only [Act.put, List.setIfInBounds_toArray, List.set_cons_zero, List.set_cons_succ]
        refine takeAE (i := 23) (oi := { dst := some 57, op := Op.move (Operand.tmp 0), type := 30, pos := "law.go:109", after := #[{ on := 16, ground := Ground.guard }], guard := some (16, false) }) rfl (by kernel_rfl) (by kernel_rfl) (by kernel_rfl) (fun _ _ _ _ h => h) (by rfl) ?_
        apply Exists.intro
        refine ⟨fun w' => ?_, ?_⟩
        · go_simp <;> with_reducible rfl
        simp only [Act.put, List.setIfInBounds_toArray, List.set_cons_zero, List.set_cons_succ]
        refine takeAE (i := 24) (oi := { dst := some 58, op := Op.move (Operand.tmp 1), type := 3, pos := "law.go:109", after := #[{ on := 16, ground := Ground.guard }], guard := some (16, false) }) rfl (by kernel_rfl) (by kernel_rfl) (by kernel_rfl) (fun _ _ _ _ h => h) (by rfl) ?_
        apply Exists.intro
        refine ⟨fun w' => ?_, ?_⟩
        · go_simp <;> with_reducible rfl
        simp only [Act.put, List.setIfInBounds_toArray, List.set_cons_zero, List.set_cons_succ]
        refine takeAE (i := 25) (oi := { dst := some 59, op := Op.slice 30 (Operand.tmp 57) (some (Operand.tmp 58)) none none, type := 30, pos := "law.go:109", after := #[{ on := 23, ground := Ground.data }, { on := 24, ground := Ground.data }, { on := 16, ground := Ground.guard }], guard := some (16, false) }) rfl (by kernel_rfl) (by kernel_rfl) (by kernel_rfl) (fun _ _ _ _ h => h) (by rfl) ?_
        refine ⟨.slice A4 (l.length - a) c4, fun w' => exec_slice 30 (.tmp 57) (some (.tmp 58)) none rfl _ (R4.out w'), ?_⟩
        simp only [Act.put, List.setIfInBounds_toArray, List.set_cons_zero, List.set_cons_succ]
        refine eachW [18, 26] (by kernel_rfl) (by simp) (two_ways ?_ ?_)
        · refine wpOp_value (i := 18) (oi := { dst := some 52, op := Op.buildSlice 49 1 #[(0, Operand.tmp 51)], type := 49, pos := "law.go:109", after := #[{ on := 17, ground := Ground.data }, { on := 16, ground := Ground.guard }], guard := some (16, false) }) rfl (by rfl) (exec_build1 W18 (.tmp 51) rfl rfl) ⟨fun _ => (below_alloc W18 _).mono HBW18.out.size, ?_⟩
          obtain ⟨W19, hW19, hbW19, hpW19⟩ := mk1 HBW18.out HS2.out hSl HC1.out
          rw [← hW19]
          clear hW19
          have PAW19 := Lib.hid hpW19
          have HBW19 := Lib.hid (HBW18.out.trans (hbW19.mono HBW18.out.size))
          clear hbW19 hpW19
          simp only [Act.put, List.setIfInBounds_toArray, List.set_cons_zero, List.set_cons_succ]
          refine eachW [19, 26] (by kernel_rfl) (by simp) (two_ways ?_ ?_)
          · refine wpOp_call (i := 19) (oi := { dst := some 53, op := Op.call { callee := Callee.value (Operand.func 18), args := #[Operand.tmp 52], argTypes := #[49] }, type := 35, pos := "law.go:109", after := #[{ on := 18, ground := Ground.data }, { on := 16, ground := Ground.chain }, { on := 16, ground := Ground.guard }], guard := some (16, false) }) rfl (by rfl) ?_ ((PAW19.out.sum256 l (by simp) HLL.out 1 rfl (by omega)).mono ?_)
            · go_simp
            rintro eW20 W20 ⟨rfl, hbW20⟩
            refine ⟨_, rfl, fun _ => hbW20.mono HBW19.out.size, ?_⟩
            have HBW20 := Lib.hid (HBW19.out.trans (hbW20.mono HBW19.out.size))
            have PAW20 := Lib.hid (PAW19.out.keep hbW20)
            clear hbW20
            simp only [Act.put, List.setIfInBounds_toArray, List.set_cons_zero, List.set_cons_succ]
            refine opW _ _ (i := 26) (oi := { dst := some 60, op := Op.buildSlice 49 2 #[(0, Operand.tmp 56), (1, Operand.tmp 59)], type := 49, pos := "law.go:109", after := #[{ on := 22, ground := Ground.data }, { on := 25, ground := Ground.data }, { on := 16, ground := Ground.guard }], guard := some (16, false) }) rfl (by kernel_rfl) (by rfl) (exec_build2 W20 (.tmp 56) (.tmp 59) rfl rfl rfl) (fun _ => (below_alloc W20 _).mono HBW20.out.size) ?_
            obtain ⟨W21, hW21, hbW21, hpW21⟩ := mk2 HBW20.out H1.out H4.out hSl HC2.out HC5.out
            rw [← hW21]
            clear hW21
            have PBW21 := Lib.hid hpW21
            have HBW21 := Lib.hid (HBW20.out.trans (hbW21.mono HBW20.out.size))
            have PAW21 := Lib.hid (PAW20.out.keep hbW21)
            clear hbW21 hpW21
            simp only [Act.put, List.setIfInBounds_toArray, List.set_cons_zero, List.set_cons_succ]
            refine callW (i := 27) (oi := { dst := some 61, op := Op.call { callee := Callee.value (Operand.func 18), args := #[Operand.tmp 60], argTypes := #[49] }, type := 35, pos := "law.go:109", after := #[{ on := 26, ground := Ground.data }, { on := 19, ground := Ground.chain }, { on := 16, ground := Ground.guard }], guard := some (16, false) }) rfl (by kernel_rfl) (by rfl) ?_ ((PBW21.out.sum256 l HSP2.out HLL.out 2 rfl (by omega)).mono ?_)
            · go_simp
            rintro eW22 W22 ⟨rfl, hbW22⟩
            refine ⟨_, rfl, fun _ => hbW22.mono HBW21.out.size, ?_⟩
            have HBW22 := Lib.hid (HBW21.out.trans (hbW22.mono HBW21.out.size))
            have PAW22 := Lib.hid (PAW21.out.keep hbW22)
            have PBW22 := Lib.hid (PBW21.out.keep hbW22)
            clear hbW22
            simp only [Act.put, List.setIfInBounds_toArray, List.set_cons_zero, List.set_cons_succ]
            refine takeAE (i := 28) (oi := { dst := some 62, op := Op.binOp BinOp.neq 35 (Operand.tmp 53) (Operand.tmp 61) 35, type := 4, pos := "law.go:109", after := #[{ on := 19, ground := Ground.data }, { on := 27, ground := Ground.data }, { on := 16, ground := Ground.guard }], guard := some (16, false) }) rfl (by kernel_rfl) (by kernel_rfl) (by kernel_rfl) (fun _ _ _ _ h => h) (by rfl) ?_
            apply Exists.intro
            refine ⟨fun w' => ?_, ?_⟩
            · have e := E35.out w'; go_simp <;> with_reducible rfl
            simp only [Act.put, List.setIfInBounds_toArray, List.set_cons_zero, List.set_cons_succ]
            refine takeAE (i := 29) (oi := { dst := some 63, op := Op.pick (Operand.tmp 50) (Operand.const (Value.bool true)) (Operand.tmp 62), type := 4, pos := "law.go:109", after := #[{ on := 16, ground := Ground.data }, { on := 28, ground := Ground.data }], guard := none }) rfl (by kernel_rfl) (by kernel_rfl) (by kernel_rfl) (fun _ _ _ _ h => h) (by rfl) ?_
            apply Exists.intro
            refine ⟨fun w' => ?_, ?_⟩
            · go_simp <;> with_reducible rfl
            simp only [Act.put, List.setIfInBounds_toArray, List.set_cons_zero, List.set_cons_succ]
            refine doneW (by kernel_rfl) ?_ _
            have HBF := HBW22.out
            (first | (go_wp2_with fail; go_meet; exact ⟨rfl, FIN.out _ HBF⟩) | (go_meet; exact ⟨rfl, FIN.out _ HBF⟩) | fail)
          · refine wpOp_value (i := 26) (oi := { dst := some 60, op := Op.buildSlice 49 2 #[(0, Operand.tmp 56), (1, Operand.tmp 59)], type := 49, pos := "law.go:109", after := #[{ on := 22, ground := Ground.data }, { on := 25, ground := Ground.data }, { on := 16, ground := Ground.guard }], guard := some (16, false) }) rfl (by rfl) (exec_build2 W19 (.tmp 56) (.tmp 59) rfl rfl rfl) ⟨fun _ => (below_alloc W19 _).mono HBW19.out.size, ?_⟩
            obtain ⟨W23, hW23, hbW23, hpW23⟩ := mk2 HBW19.out H1.out H4.out hSl HC2.out HC5.out
            rw [← hW23]
            clear hW23
            have PBW23 := Lib.hid hpW23
            have HBW23 := Lib.hid (HBW19.out.trans (hbW23.mono HBW19.out.size))
            have PAW23 := Lib.hid (PAW19.out.keep hbW23)
            clear hbW23 hpW23
            simp only [Act.put, List.setIfInBounds_toArray, List.set_cons_zero, List.set_cons_succ]
            refine callW (i := 19) (oi := { dst := some 53, op := Op.call { callee := Callee.value (Operand.func 18), args := #[Operand.tmp 52], argTypes := #[49] }, type := 35, pos := "law.go:109", after := #[{ on := 18, ground := Ground.data }, { on := 16, ground := Ground.chain }, { on := 16, ground := Ground.guard }], guard := some (16, false) }) rfl (by kernel_rfl) (by rfl) ?_ ((PAW23.out.sum256 l (by simp) HLL.out 1 rfl (by omega)).mono ?_)
            · go_simp
            rintro eW24 W24 ⟨rfl, hbW24⟩
            refine ⟨_, rfl, fun _ => hbW24.mono HBW23.out.size, ?_⟩
            have HBW24 := Lib.hid (HBW23.out.trans (hbW24.mono HBW23.out.size))
            have PAW24 := Lib.hid (PAW23.out.keep hbW24)
            have PBW24 := Lib.hid (PBW23.out.keep hbW24)
            clear hbW24
            simp only [Act.put, List.setIfInBounds_toArray, List.set_cons_zero, List.set_cons_succ]
            refine callW (i := 27) (oi := { dst := some 61, op := Op.call { callee := Callee.value (Operand.func 18), args := #[Operand.tmp 60], argTypes := #[49] }, type := 35, pos := "law.go:109", after := #[{ on := 26, ground := Ground.data }, { on := 19, ground := Ground.chain }, { on := 16, ground := Ground.guard }], guard := some (16, false) }) rfl (by kernel_rfl) (by rfl) ?_ ((PBW24.out.sum256 l HSP2.out HLL.out 2 rfl (by omega)).mono ?_)
            · go_simp
            rintro eW25 W25 ⟨rfl, hbW25⟩
            refine ⟨_, rfl, fun _ => hbW25.mono HBW24.out.size, ?_⟩
            have HBW25 := Lib.hid (HBW24.out.trans (hbW25.mono HBW24.out.size))
            have PAW25 := Lib.hid (PAW24.out.keep hbW25)
            have PBW25 := Lib.hid (PBW24.out.keep hbW25)
            clear hbW25
            simp only [Act.put, List.setIfInBounds_toArray, List.set_cons_zero, List.set_cons_succ]
            refine takeAE (i := 28) (oi := { dst := some 62, op := Op.binOp BinOp.neq 35 (Operand.tmp 53) (Operand.tmp 61) 35, type := 4, pos := "law.go:109", after := #[{ on := 19, ground := Ground.data }, { on := 27, ground := Ground.data }, { on := 16, ground := Ground.guard }], guard := some (16, false) }) rfl (by kernel_rfl) (by kernel_rfl) (by kernel_rfl) (fun _ _ _ _ h => h) (by rfl) ?_
            apply Exists.intro
            refine ⟨fun w' => ?_, ?_⟩
            · have e := E35.out w'; go_simp <;> with_reducible rfl
            simp only [Act.put, List.setIfInBounds_toArray, List.set_cons_zero, List.set_cons_succ]
            refine takeAE (i := 29) (oi := { dst := some 63, op := Op.pick (Operand.tmp 50) (Operand.const (Value.bool true)) (Operand.tmp 62), type := 4, pos := "law.go:109", after := #[{ on := 16, ground := Ground.data }, { on := 28, ground := Ground.data }], guard := none }) rfl (by kernel_rfl) (by kernel_rfl) (by kernel_rfl) (fun _ _ _ _ h => h) (by rfl) ?_
            apply Exists.intro
            refine ⟨fun w' => ?_, ?_⟩
            · go_simp <;> with_reducible rfl
            simp only [Act.put, List.setIfInBounds_toArray, List.set_cons_zero, List.set_cons_succ]
            refine doneW (by kernel_rfl) ?_ _
            have HBF := HBW25.out
            (first | (go_wp2_with fail; go_meet; exact ⟨rfl, FIN.out _ HBF⟩) | (go_meet; exact ⟨rfl, FIN.out _ HBF⟩) | fail)
        · refine wpOp_value (i := 26) (oi := { dst := some 60, op := Op.buildSlice 49 2 #[(0, Operand.tmp 56), (1, Operand.tmp 59)], type := 49, pos := "law.go:109", after := #[{ on := 22, ground := Ground.data }, { on := 25, ground := Ground.data }, { on := 16, ground := Ground.guard }], guard := some (16, false) }) rfl (by rfl) (exec_build2 W18 (.tmp 56) (.tmp 59) rfl rfl rfl) ⟨fun _ => (below_alloc W18 _).mono HBW18.out.size, ?_⟩
          obtain ⟨W26, hW26, hbW26, hpW26⟩ := mk2 HBW18.out H1.out H4.out hSl HC2.out HC5.out
          rw [← hW26]
          clear hW26
          have PBW26 := Lib.hid hpW26
          have HBW26 := Lib.hid (HBW18.out.trans (hbW26.mono HBW18.out.size))
          clear hbW26 hpW26
          simp only [Act.put, List.setIfInBounds_toArray, List.set_cons_zero, List.set_cons_succ]
          refine opW _ _ (i := 18) (oi := { dst := some 52, op := Op.buildSlice 49 1 #[(0, Operand.tmp 51)], type := 49, pos := "law.go:109", after := #[{ on := 17, ground := Ground.data }, { on := 16, ground := Ground.guard }], guard := some (16, false) }) rfl (by kernel_rfl) (by rfl) (exec_build1 W26 (.tmp 51) rfl rfl) (fun _ => (below_alloc W26 _).mono HBW26.out.size) ?_
          obtain ⟨W27, hW27, hbW27, hpW27⟩ := mk1 HBW26.out HS2.out hSl HC1.out
          rw [← hW27]
          clear hW27
          have PAW27 := Lib.hid hpW27
          have HBW27 := Lib.hid (HBW26.out.trans (hbW27.mono HBW26.out.size))
          have PBW27 := Lib.hid (PBW26.out.keep hbW27)
          clear hbW27 hpW27
          simp only [Act.put, List.setIfInBounds_toArray, List.set_cons_zero, List.set_cons_succ]
          refine callW (i := 19) (oi := { dst := some 53, op := Op.call { callee := Callee.value (Operand.func 18), args := #[Operand.tmp 52], argTypes := #[49] }, type := 35, pos := "law.go:109", after := #[{ on := 18, ground := Ground.data }, { on := 16, ground := Ground.chain }, { on := 16, ground := Ground.guard }], guard := some (16, false) }) rfl (by kernel_rfl) (by rfl) ?_ ((PAW27.out.sum256 l (by simp) HLL.out 1 rfl (by omega)).mono ?_)
          · go_simp
          rintro eW28 W28 ⟨rfl, hbW28⟩
          refine ⟨_, rfl, fun _ => hbW28.mono HBW27.out.size, ?_⟩
          have HBW28 := Lib.hid (HBW27.out.trans (hbW28.mono HBW27.out.size))
          have PBW28 := Lib.hid (PBW27.out.keep hbW28)
          have PAW28 := Lib.hid (PAW27.out.keep hbW28)
          clear hbW28
          simp only [Act.put, List.setIfInBounds_toArray, List.set_cons_zero, List.set_cons_succ]
          refine callW (i := 27) (oi := { dst := some 61, op := Op.call { callee := Callee.value (Operand.func 18), args := #[Operand.tmp 60], argTypes := #[49] }, type := 35, pos := "law.go:109", after := #[{ on := 26, ground := Ground.data }, { on := 19, ground := Ground.chain }, { on := 16, ground := Ground.guard }], guard := some (16, false) }) rfl (by kernel_rfl) (by rfl) ?_ ((PBW28.out.sum256 l HSP2.out HLL.out 2 rfl (by omega)).mono ?_)
          · go_simp
          rintro eW29 W29 ⟨rfl, hbW29⟩
          refine ⟨_, rfl, fun _ => hbW29.mono HBW28.out.size, ?_⟩
          have HBW29 := Lib.hid (HBW28.out.trans (hbW29.mono HBW28.out.size))
          have PBW29 := Lib.hid (PBW28.out.keep hbW29)
          have PAW29 := Lib.hid (PAW28.out.keep hbW29)
          clear hbW29
          simp only [Act.put, List.setIfInBounds_toArray, List.set_cons_zero, List.set_cons_succ]
          refine takeAE (i := 28) (oi := { dst := some 62, op := Op.binOp BinOp.neq 35 (Operand.tmp 53) (Operand.tmp 61) 35, type := 4, pos := "law.go:109", after := #[{ on := 19, ground := Ground.data }, { on := 27, ground := Ground.data }, { on := 16, ground := Ground.guard }], guard := some (16, false) }) rfl (by kernel_rfl) (by kernel_rfl) (by kernel_rfl) (fun _ _ _ _ h => h) (by rfl) ?_
          apply Exists.intro
          refine ⟨fun w' => ?_, ?_⟩
          · have e := E35.out w'; go_simp <;> with_reducible rfl
          simp only [Act.put, List.setIfInBounds_toArray, List.set_cons_zero, List.set_cons_succ]
          refine takeAE (i := 29) (oi := { dst := some 63, op := Op.pick (Operand.tmp 50) (Operand.const (Value.bool true)) (Operand.tmp 62), type := 4, pos := "law.go:109", after := #[{ on := 16, ground := Ground.data }, { on := 28, ground := Ground.data }], guard := none }) rfl (by kernel_rfl) (by kernel_rfl) (by kernel_rfl) (fun _ _ _ _ h => h) (by rfl) ?_
          apply Exists.intro
          refine ⟨fun w' => ?_, ?_⟩
          · go_simp <;> with_reducible rfl
          simp only [Act.put, List.setIfInBounds_toArray, List.set_cons_zero, List.set_cons_succ]
          refine doneW (by kernel_rfl) ?_ _
          have HBF := HBW29.out
          (first | (go_wp2_with fail; go_meet; exact ⟨rfl, FIN.out _ HBF⟩) | (go_meet; exact ⟨rfl, FIN.out _ HBF⟩) | fail)
    · refine wpOp_value (i := 13) (oi := { dst := some 47, op := Op.buildSlice 49 3 #[(0, Operand.tmp 39), (1, Operand.tmp 43), (2, Operand.tmp 46)], type := 49, pos := "law.go:109", after := #[{ on := 5, ground := Ground.data }, { on := 9, ground := Ground.data }, { on := 12, ground := Ground.data }], guard := none }) rfl (by rfl) (exec_build3 W0 (.tmp 39) (.tmp 43) (.tmp 46) rfl rfl rfl rfl) ⟨fun _ => (below_alloc W0 _).mono HBW0.out.size, ?_⟩
      obtain ⟨W30, hW30, hbW30, hpW30⟩ := mk3 HBW0.out H1.out H2.out H3.out hSl HC2.out HC3.out HC4.out
      rw [← hW30]
      clear hW30
      have PBW30 := Lib.hid hpW30
      have HBW30 := Lib.hid (HBW0.out.trans (hbW30.mono HBW0.out.size))
      clear hbW30 hpW30
      simp only [Act.put, List.setIfInBounds_toArray, List.set_cons_zero, List.set_cons_succ]
      refine opW _ _ (i := 1) (oi := { dst := some 35, op := Op.buildSlice 49 1 #[(0, Operand.tmp 34)], type := 49, pos := "law.go:109", after := #[{ on := 0, ground := Ground.data }], guard := none }) rfl (by kernel_rfl) (by rfl) (exec_build1 W30 (.tmp 34) rfl rfl) (fun _ => (below_alloc W30 _).mono HBW30.out.size) ?_
      obtain ⟨W31, hW31, hbW31, hpW31⟩ := mk1 HBW30.out HS2.out hSl HC1.out
      rw [← hW31]
      clear hW31
      have PAW31 := Lib.hid hpW31
      have HBW31 := Lib.hid (HBW30.out.trans (hbW31.mono HBW30.out.size))
      have PBW31 := Lib.hid (PBW30.out.keep hbW31)
      clear hbW31 hpW31
      simp only [Act.put, List.setIfInBounds_toArray, List.set_cons_zero, List.set_cons_succ]
      refine callW (i := 2) (oi := { dst := some 36, op := Op.call { callee := Callee.value (Operand.func 9), args := #[Operand.tmp 35], argTypes := #[49] }, type := 22, pos := "law.go:109", after := #[{ on := 1, ground := Ground.data }], guard := none }) rfl (by kernel_rfl) (by rfl) ?_ ((PAW31.out.sum512 l (by simp) HLL.out 1 rfl (by omega)).mono ?_)
      · go_simp
      rintro eW32 W32 ⟨rfl, hbW32⟩
      refine ⟨_, rfl, fun _ => hbW32.mono HBW31.out.size, ?_⟩
      have HBW32 := Lib.hid (HBW31.out.trans (hbW32.mono HBW31.out.size))
      have PBW32 := Lib.hid (PBW31.out.keep hbW32)
      have PAW32 := Lib.hid (PAW31.out.keep hbW32)
      clear hbW32
      simp only [Act.put, List.setIfInBounds_toArray, List.set_cons_zero, List.set_cons_succ]
      refine callW (i := 14) (oi := { dst := some 48, op := Op.call { callee := Callee.value (Operand.func 9), args := #[Operand.tmp 47], argTypes := #[49] }, type := 22, pos := "law.go:109", after := #[{ on := 13, ground := Ground.data }, { on := 2, ground := Ground.chain }], guard := none }) rfl (by kernel_rfl) (by rfl) ?_ ((PBW32.out.sum512 l HSP3.out HLL.out 3 rfl (by omega)).mono ?_)
      · go_simp
      rintro eW33 W33 ⟨rfl, hbW33⟩
      refine ⟨_, rfl, fun _ => hbW33.mono HBW32.out.size, ?_⟩
      have HBW33 := Lib.hid (HBW32.out.trans (hbW33.mono HBW32.out.size))
      have PBW33 := Lib.hid (PBW32.out.keep hbW33)
      have PAW33 := Lib.hid (PAW32.out.keep hbW33)
      clear hbW33
      simp only [Act.put, List.setIfInBounds_toArray, List.set_cons_zero, List.set_cons_succ]
      refine takeAE (i := 15) (oi := { dst := some 49, op := Op.binOp BinOp.neq 22 (Operand.tmp 36) (Operand.tmp 48) 22, type := 4, pos := "law.go:109", after := #[{ on := 2, ground := Ground.data }, { on := 14, ground := Ground.data }], guard := none }) rfl (by kernel_rfl) (by kernel_rfl) (by kernel_rfl) (fun _ _ _ _ h => h) (by rfl) ?_
      apply Exists.intro
      refine ⟨fun w' => ?_, ?_⟩
      · have e := E22.out w'; go_simp <;> with_reducible rfl
      simp only [Act.put, List.setIfInBounds_toArray, List.set_cons_zero, List.set_cons_succ]
      refine takeAE (i := 16) (oi := { dst := some 50, op := Op.move (Operand.tmp 49), type := 4, pos := "law.go:109", after := #[{ on := 15, ground := Ground.data }, { on := 14, ground := Ground.chain }], guard := none }) rfl (by kernel_rfl) (by kernel_rfl) (by kernel_rfl) (fun _ _ _ _ h => h) (by rfl) ?_
      apply Exists.intro
      refine ⟨fun w' => ?_, ?_⟩
      · go_simp <;> with_reducible rfl
      simp only [Act.put, List.setIfInBounds_toArray, List.set_cons_zero, List.set_cons_succ]
      refine takeAE (i := 17) (oi := { dst := some 51, op := Op.move (Operand.tmp 0), type := 30, pos := "law.go:109", after := #[{ on := 16, ground := Ground.guard }], guard := some (16, false) }) rfl (by kernel_rfl) (by kernel_rfl) (by kernel_rfl) (fun _ _ _ _ h => h) (by rfl) ?_
      apply Exists.intro
      refine ⟨fun w' => ?_, ?_⟩
      · go_simp <;> with_reducible rfl
      simp only [Act.put, List.setIfInBounds_toArray, List.set_cons_zero, List.set_cons_succ]
      refine takeAE (i := 20) (oi := { dst := some 54, op := Op.move (Operand.tmp 0), type := 30, pos := "law.go:109", after := #[{ on := 16, ground := Ground.guard }], guard := some (16, false) }) rfl (by kernel_rfl) (by kernel_rfl) (by kernel_rfl) (fun _ _ _ _ h => h) (by rfl) ?_
      apply Exists.intro
      refine ⟨fun w' => ?_, ?_⟩
      · go_simp <;> with_reducible rfl
      simp only [Act.put, List.setIfInBounds_toArray, List.set_cons_zero, List.set_cons_succ]
      refine takeAE (i := 21) (oi := { dst := some 55, op := Op.move (Operand.tmp 1), type := 3, pos := "law.go:109", after := #[{ on := 16, ground := Ground.guard }], guard := some (16, false) }) rfl (by kernel_rfl) (by kernel_rfl) (by kernel_rfl) (fun _ _ _ _ h => h) (by rfl) ?_
      apply Exists.intro
      refine ⟨fun w' => ?_, ?_⟩
      · go_simp <;> with_reducible rfl
      simp only [Act.put, List.setIfInBounds_toArray, List.set_cons_zero, List.set_cons_succ]
      refine takeAE (i := 22) (oi := { dst := some 56, op := Op.slice 30 (Operand.tmp 54) none (some (Operand.tmp 55)) none, type := 30, pos := "law.go:109", after := #[{ on := 20, ground := Ground.data }, { on := 21, ground := Ground.data }, { on := 16, ground := Ground.guard }], guard := some (16, false) }) rfl (by kernel_rfl) (by kernel_rfl) (by kernel_rfl) (fun _ _ _ _ h => h) (by rfl) ?_
      refine ⟨.slice A1 (a - 0) c1, fun w' => exec_slice 30 (.tmp 54) none (some (.tmp 55)) rfl _ (R1.out w'), ?_⟩
      simp only [Act.put, List.setIfInBounds_toArray, List.set_cons_zero, List.set_cons_succ]
      refine takeAE (i := 23) (oi := { dst := some 57, op := Op.move (Operand.tmp 0), type := 30, pos := "law.go:109", after := #[{ on := 16, ground := Ground.guard }], guard := some (16, false) }) rfl (by kernel_rfl) (by kernel_rfl) (by kernel_rfl) (fun _ _ _ _ h => h) (by rfl) ?_
      apply Exists.intro
      refine ⟨fun w' => ?_, ?_⟩
      · go_simp <;> with_reducible rfl
      simp only [Act.put, List.setIfInBounds_toArray, List.set_cons_zero, List.set_cons_succ]
      refine takeAE (i := 24) (oi := { dst := some 58, op := Op.move (Operand.tmp 1), type := 3, pos := "law.go:109", after := #[{ on := 16, ground := Ground.guard }], guard := some (16, false) }) rfl (by kernel_rfl) (by kernel_rfl) (by kernel_rfl) (fun _ _ _ _ h => h) (by rfl) ?_
      apply Exists.intro
      refine ⟨fun w' => ?_, ?_⟩
      · go_simp <;> with_reducible rfl
      simp only [Act.put, List.setIfInBounds_toArray, List.set_cons_zero, List.set_cons_succ]
      refine takeAE (i := 25) (oi := { dst := some 59, op := Op.slice 30 (Operand.tmp 57) (some (Operand.tmp 58)) none none, type := 30, pos := "law.go:109", after := #[{ on := 23, ground := Ground.data }, { on := 24, ground := Ground.data }, { on := 16, ground := Ground.guard }], guard := some (16, false) }) rfl (by kernel_rfl) (by kernel_rfl) (by kernel_rfl) (fun _ _ _ _ h => h) (by rfl) ?_
      refine ⟨.slice A4 (l.length - a) c4, fun w' => exec_slice 30 (.tmp 57) (some (.tmp 58)) none rfl _ (R4.out w'), ?_⟩
      simp only [Act.put, List.setIfInBounds_toArray, List.set_cons_zero, List.set_cons_succ]
      refine eachW [18, 26] (by kernel_rfl) (by simp) (two_ways ?_ ?_)
      · refine wpOp_value (i := 18) (oi := { dst := some 52, op := Op.buildSlice 49 1 #[(0, Operand.tmp 51)], type := 49, pos := "law.go:109", after := #[{ on := 17, ground := Ground.data }, { on := 16, ground := Ground.guard }], guard := some (16, false) }) rfl (by rfl) (exec_build1 W33 (.tmp 51) rfl rfl) ⟨fun _ => (below_alloc W33 _).mono HBW33.out.size, ?_⟩
        obtain ⟨W34, hW34, hbW34, hpW34⟩ := mk1 HBW33.out HS2.out hSl HC1.out
        rw [← hW34]
        clear hW34
        have PAW34 := Lib.hid hpW34
        have HBW34 := Lib.hid (HBW33.out.trans (hbW34.mono HBW33.out.size))
        clear hbW34 hpW34
        simp only [Act.put, List.setIfInBounds_toArray, List.set_cons_zero, List.set_cons_succ]
        refine eachW [19, 26] (by kernel_rfl) (by simp) (two_ways ?_ ?_)
        · refine wpOp_call (i := 19) (oi := { dst := some 53, op := Op.call { callee := Callee.value (Operand.func 18), args := #[Operand.tmp 52], argTypes := #[49] }, type := 35, pos := "law.go:109", after := #[{ on := 18, ground := Ground.data }, { on := 16, ground := Ground.chain }, { on := 16, ground := Ground.guard }], guard := some (16, false) }) rfl (by rfl) ?_ ((PAW34.out.sum256 l (by simp) HLL.out 1 rfl (by omega)).mono ?_)
          · go_simp
          rintro eW35 W35 ⟨rfl, hbW35⟩
          refine ⟨_, rfl, fun _ => hbW35.mono HBW34.out.size, ?_⟩
          have HBW35 := Lib.hid (HBW34.out.trans (hbW35.mono HBW34.out.size))
          have PAW35 := Lib.hid (PAW34.out.keep hbW35)
          clear hbW35
          simp only [Act.put, List.setIfInBounds_toArray, List.set_cons_zero, List.set_cons_succ]
          refine opW _ _ (i := 26) (oi := { dst := some 60, op := Op.buildSlice 49 2 #[(0, Operand.tmp 56), (1, Operand.tmp 59)], type := 49, pos := "law.go:109", after := #[{ on := 22, ground := Ground.data }, { on := 25, ground := Ground.data }, { on := 16, ground := Ground.guard }], guard := some (16, false) }) rfl (by kernel_rfl) (by rfl) (exec_build2 W35 (.tmp 56) (.tmp 59) rfl rfl rfl) (fun _ => (below_alloc W35 _).mono HBW35.out.size) ?_
          obtain ⟨W36, hW36, hbW36, hpW36⟩ := mk2 HBW35.out H1.out H4.out hSl HC2.out HC5.out
          rw [← hW36]
          clear hW36
          have PBW36 := Lib.hid hpW36
          have HBW36 := Lib.hid (HBW35.out.trans (hbW36.mono HBW35.out.size))
          have PAW36 := Lib.hid (PAW35.out.keep hbW36)
          clear hbW36 hpW36
          simp only [Act.put, List.setIfInBounds_toArray, List.set_cons_zero, List.set_cons_succ]
          refine callW (i := 27) (oi := { dst := some 61, op := Op.call { callee := Callee.value (Operand.func 18), args := #[Operand.tmp 60], argTypes := #[49] }, type := 35, pos := "law.go:109", after := #[{ on := 26, ground := Ground.data }, { on := 19, ground := Ground.chain }, { on := 16, ground := Ground.guard }], guard := some (16, false) }) rfl (by kernel_rfl) (by rfl) ?_ ((PBW36.out.sum256 l HSP2.out HLL.out 2 rfl (by omega)).mono ?_)
          · go_simp
          rintro eW37 W37 ⟨rfl, hbW37⟩
          refine ⟨_, rfl, fun _ => hbW37.mono HBW36.out.size, ?_⟩
          have HBW37 := Lib.hid (HBW36.out.trans (hbW37.mono HBW36.out.size))
          have PAW37 := Lib.hid (PAW36.out.keep hbW37)
          have PBW37 := Lib.hid (PBW36.out.keep hbW37)
          clear hbW37
          simp only [Act.put, List.setIfInBounds_toArray, List.set_cons_zero, List.set_cons_succ]
          refine takeAE (i := 28) (oi := { dst := some 62, op := Op.binOp BinOp.neq 35 (Operand.tmp 53) (Operand.tmp 61) 35, type := 4, pos := "law.go:109", after := #[{ on := 19, ground := Ground.data }, { on := 27, ground := Ground.data }, { on := 16, ground := Ground.guard }], guard := some (16, false) }) rfl (by kernel_rfl) (by kernel_rfl) (by kernel_rfl) (fun _ _ _ _ h => h) (by rfl) ?_
          apply Exists.intro
          refine ⟨fun w' => ?_, ?_⟩
          · have e := E35.out w'; go_simp <;> with_reducible rfl
          simp only [Act.put, List.setIfInBounds_toArray, List.set_cons_zero, List.set_cons_succ]
          refine takeAE (i := 29) (oi := { dst := some 63, op := Op.pick (Operand.tmp 50) (Operand.const (Value.bool true)) (Operand.tmp 62), type := 4, pos := "law.go:109", after := #[{ on := 16, ground := Ground.data }, { on := 28, ground := Ground.data }], guard := none }) rfl (by kernel_rfl) (by kernel_rfl) (by kernel_rfl) (fun _ _ _ _ h => h) (by rfl) ?_
          apply Exists.intro
          refine ⟨fun w' => ?_, ?_⟩
          · go_simp <;> with_reducible rfl
          simp only [Act.put, List.setIfInBounds_toArray, List.set_cons_zero, List.set_cons_succ]
          refine doneW (by kernel_rfl) ?_ _
          have HBF := HBW37.out
          (first | (go_wp2_with fail; go_meet; exact ⟨rfl, FIN.out _ HBF⟩) | (go_meet; exact ⟨rfl, FIN.out _ HBF⟩) | fail)
        · refine wpOp_value (i := 26) (oi := { dst := some 60, op := Op.buildSlice 49 2 #[(0, Operand.tmp 56), (1, Operand.tmp 59)], type := 49, pos := "law.go:109", after := #[{ on := 22, ground := Ground.data }, { on := 25, ground := Ground.data }, { on := 16, ground := Ground.guard }], guard := some (16, false) }) rfl (by rfl) (exec_build2 W34 (.tmp 56) (.tmp 59) rfl rfl rfl) ⟨fun _ => (below_alloc W34 _).mono HBW34.out.size, ?_⟩
          obtain ⟨W38, hW38, hbW38, hpW38⟩ := mk2 HBW34.out H1.out H4.out hSl HC2.out HC5.out
          rw [← hW38]
          clear hW38
          have PBW38 := Lib.hid hpW38
          have HBW38 := Lib.hid (HBW34.out.trans (hbW38.mono HBW34.out.size))
          have PAW38 := Lib.hid (PAW34.out.keep hbW38)
          clear hbW38 hpW38
          simp only [Act.put, List.setIfInBounds_toArray, List.set_cons_zero, List.set_cons_succ]
          refine callW (i := 19) (oi := { dst := some 53, op := Op.call { callee := Callee.value (Operand.func 18), args := #[Operand.tmp 52], argTypes := #[49] }, type := 35, pos := "law.go:109", after := #[{ on := 18, ground := Ground.data }, { on := 16, ground := Ground.chain }, { on := 16, ground := Ground.guard }], guard := some (16, false) }) rfl (by kernel_rfl) (by rfl) ?_ ((PAW38.out.sum256 l (by simp) HLL.out 1 rfl (by omega)).mono ?_)
          · go_simp
          rintro eW39 W39 ⟨rfl, hbW39⟩
          refine ⟨_, rfl, fun _ => hbW39.mono HBW38.out.size, ?_⟩
          have HBW39 := Lib.hid (HBW38.out.trans (hbW39.mono HBW38.out.size))
          have PAW39 := Lib.hid (PAW38.out.keep hbW39)
          have PBW39 := Lib.hid (PBW38.out.keep hbW39)
          clear hbW39
          simp only [Act.put, List.setIfInBounds_toArray, List.set_cons_zero, List.set_cons_succ]
          refine callW (i := 27) (oi := { dst := some 61, op := Op.call { callee := Callee.value (Operand.func 18), args := #[Operand.tmp 60], argTypes := #[49] }, type := 35, pos := "law.go:109", after := #[{ on := 26, ground := Ground.data }, { on := 19, ground := Ground.chain }, { on := 16, ground := Ground.guard }], guard := some (16, false) }) rfl (by kernel_rfl) (by rfl) ?_ ((PBW39.out.sum256 l HSP2.out HLL.out 2 rfl (by omega)).mono ?_)
          · go_simp
          rintro eW40 W40 ⟨rfl, hbW40⟩
          refine ⟨_, rfl, fun _ => hbW40.mono HBW39.out.size, ?_⟩
          have HBW40 := Lib.hid (HBW39.out.trans (hbW40.mono HBW39.out.size))
          have PAW40 := Lib.hid (PAW39.out.keep hbW40)
          have PBW40 := Lib.hid (PBW39.out.keep hbW40)
          clear hbW40
          simp only [Act.put, List.setIfInBounds_toArray, List.set_cons_zero, List.set_cons_succ]
          refine takeAE (i := 28) (oi := { dst := some 62, op := Op.binOp BinOp.neq 35 (Operand.tmp 53) (Operand.tmp 61) 35, type := 4, pos := "law.go:109", after := #[{ on := 19, ground := Ground.data }, { on := 27, ground := Ground.data }, { on := 16, ground := Ground.guard }], guard := some (16, false) }) rfl (by kernel_rfl) (by kernel_rfl) (by kernel_rfl) (fun _ _ _ _ h => h) (by rfl) ?_
          apply Exists.intro
          refine ⟨fun w' => ?_, ?_⟩
          · have e := E35.out w'; go_simp <;> with_reducible rfl
          simp only [Act.put, List.setIfInBounds_toArray, List.set_cons_zero, List.set_cons_succ]
          refine takeAE (i := 29) (oi := { dst := some 63, op := Op.pick (Operand.tmp 50) (Operand.const (Value.bool true)) (Operand.tmp 62), type := 4, pos := "law.go:109", after := #[{ on := 16, ground := Ground.data }, { on := 28, ground := Ground.data }], guard := none }) rfl (by kernel_rfl) (by kernel_rfl) (by kernel_rfl) (fun _ _ _ _ h => h) (by rfl) ?_
          apply Exists.intro
          refine ⟨fun w' => ?_, ?_⟩
          · go_simp <;> with_reducible rfl
          simp only [Act.put, List.setIfInBounds_toArray, List.set_cons_zero, List.set_cons_succ]
          refine doneW (by kernel_rfl) ?_ _
          have HBF := HBW40.out
          (first | (go_wp2_with fail; go_meet; exact ⟨rfl, FIN.out _ HBF⟩) | (go_meet; exact ⟨rfl, FIN.out _ HBF⟩) | fail)
      · refine wpOp_value (i := 26) (oi := { dst := some 60, op := Op.buildSlice 49 2 #[(0, Operand.tmp 56), (1, Operand.tmp 59)], type := 49, pos := "law.go:109", after := #[{ on := 22, ground := Ground.data }, { on := 25, ground := Ground.data }, { on := 16, ground := Ground.guard }], guard := some (16, false) }) rfl (by rfl) (exec_build2 W33 (.tmp 56) (.tmp 59) rfl rfl rfl) ⟨fun _ => (below_alloc W33 _).mono HBW33.out.size, ?_⟩
        obtain ⟨W41, hW41, hbW41, hpW41⟩ := mk2 HBW33.out H1.out H4.out hSl HC2.out HC5.out
        rw [← hW41]
        clear hW41
        have PBW41 := Lib.hid hpW41
        have HBW41 := Lib.hid (HBW33.out.trans (hbW41.mono HBW33.out.size))
        clear hbW41 hpW41
        simp only [Act.put, List.setIfInBounds_toArray, List.set_cons_zero, List.set_cons_succ]
        refine opW _ _ (i := 18) (oi := { dst := some 52, op := Op.buildSlice 49 1 #[(0, Operand.tmp 51)], type := 49, pos := "law.go:109", after := #[{ on := 17, ground := Ground.data }, { on := 16, ground := Ground.guard }], guard := some (16, false) }) rfl (by kernel_rfl) (by rfl) (exec_build1 W41 (.tmp 51) rfl rfl) (fun _ => (below_alloc W41 _).mono HBW41.out.size) ?_
        obtain ⟨W42, hW42, hbW42, hpW42⟩ := mk1 HBW41.out HS2.out hSl HC1.out
        rw [← hW42]
        clear hW42
        have PAW42 := Lib.hid hpW42
        have HBW42 := Lib.hid (HBW41.out.trans (hbW42.mono HBW41.out.size))
        have PBW42 := Lib.hid (PBW41.out.keep hbW42)
        clear hbW42 hpW42
        simp only [Act.put, List.setIfInBounds_toArray, List.set_cons_zero, List.set_cons_succ]
        refine callW (i := 19) (oi := { dst := some 53, op := Op.call { callee := Callee.value (Operand.func 18), args := #[Operand.tmp 52], argTypes := #[49] }, type := 35, pos := "law.go:109", after := #[{ on := 18, ground := Ground.data }, { on := 16, ground := Ground.chain }, { on := 16, ground := Ground.guard }], guard := some (16, false) }) rfl (by kernel_rfl) (by rfl) ?_ ((PAW42.out.sum256 l (by simp) HLL.out 1 rfl (by omega)).mono ?_)
        · go_simp
        rintro eW43 W43 ⟨rfl, hbW43⟩
        refine ⟨_, rfl, fun _ => hbW43.mono HBW42.out.size, ?_⟩
        have HBW43 := Lib.hid (HBW42.out.trans (hbW43.mono HBW42.out.size))
        have PBW43 := Lib.hid (PBW42.out.keep hbW43)
        have PAW43 := Lib.hid (PAW42.out.keep hbW43)
        clear hbW43
        simp only [Act.put, List.setIfInBounds_toArray, List.set_cons_zero, List.set_cons_succ]
        refine callW (i := 27) (oi := { dst := some 61, op := Op.call { callee := Callee.value (Operand.func 18), args := #[Operand.tmp 60], argTypes := #[49] }, type := 35, pos := "law.go:109", after := #[{ on := 26, ground := Ground.data }, { on := 19, ground := Ground.chain }, { on := 16, ground := Ground.guard }], guard := some (16, false) }) rfl (by kernel_rfl) (by rfl) ?_ ((PBW43.out.sum256 l HSP2.out HLL.out 2 rfl (by omega)).mono ?_)
        · go_simp
        rintro eW44 W44 ⟨rfl, hbW44⟩
        refine ⟨_, rfl, fun _ => hbW44.mono HBW43.out.size, ?_⟩
        have HBW44 := Lib.hid (HBW43.out.trans (hbW44.mono HBW43.out.size))
        have PBW44 := Lib.hid (PBW43.out.keep hbW44)
        have PAW44 := Lib.hid (PAW43.out.keep hbW44)
        clear hbW44
        simp only [Act.put, List.setIfInBounds_toArray, List.set_cons_zero, List.set_cons_succ]
        refine takeAE (i := 28) (oi := { dst := some 62, op := Op.binOp BinOp.neq 35 (Operand.tmp 53) (Operand.tmp 61) 35, type := 4, pos := "law.go:109", after := #[{ on := 19, ground := Ground.data }, { on := 27, ground := Ground.data }, { on := 16, ground := Ground.guard }], guard := some (16, false) }) rfl (by kernel_rfl) (by kernel_rfl) (by kernel_rfl) (fun _ _ _ _ h => h) (by rfl) ?_
        apply Exists.intro
        refine ⟨fun w' => ?_, ?_⟩
        · have e := E35.out w'; go_simp <;> with_reducible rfl
        simp only [Act.put, List.setIfInBounds_toArray, List.set_cons_zero, List.set_cons_succ]
        refine takeAE (i := 29) (oi := { dst := some 63, op := Op.pick (Operand.tmp 50) (Operand.const (Value.bool true)) (Operand.tmp 62), type := 4, pos := "law.go:109", after := #[{ on := 16, ground := Ground.data }, { on := 28, ground := Ground.data }], guard := none }) rfl (by kernel_rfl) (by kernel_rfl) (by kernel_rfl) (fun _ _ _ _ h => h) (by rfl) ?_
        apply Exists.intro
        refine ⟨fun w' => ?_, ?_⟩
        · go_simp <;> with_reducible rfl
        simp only [Act.put, List.setIfInBounds_toArray, List.set_cons_zero, List.set_cons_succ]
        refine doneW (by kernel_rfl) ?_ _
        have HBF := HBW44.out
        (first | (go_wp2_with fail; go_meet; exact ⟨rfl, FIN.out _ HBF⟩) | (go_meet; exact ⟨rfl, FIN.out _ HBF⟩) | fail)
  case rest =>
    obtain ⟨rfl, hbx⟩ := hcut
    have BX := Lib.hid hbx
    have HSX := Lib.hid (HS.out.below' hbx (fun b h => h))
    clear hbx B1 B2 S1 HI HK hk1 hk2 hcm
    go_wp2_with fail
    refine (start_any _).mono ?_
    rintro e4 w4 ⟨rfl, hb4⟩
    go_wp2_with fail
    refine (startShort_any _).mono ?_
    rintro e5 w5 ⟨rfl, hb5⟩
    have B5 : Hid (Below w.heap.size w w5) := Lib.hid ((BX.out.trans (hb4.mono BX.out.size)).trans (hb5.mono (Nat.le_trans BX.out.size hb4.size)))
    clear hb4 hb5 BX HSX
    have M1 : Hid True := trivial
    have HT : Hid (∀ w6 w7 w8 w9 : World, w6.heap[w5.heap.size]? = some (.cells (zw 8) 27 (0, 0)) → w6.heap.size = w5.heap.size + 1 → w5.grownBy w6 none → w7.heap[w6.heap.size]? = some (.cells (zw 8) 27 (0, 0)) → w7.heap.size = w6.heap.size + 1 → w6.grownBy w7 none →
        w8.heap[w5.heap.size]? = some (.cells (ucs start512.words).toArray 27 (0, 0)) → w7.grownBy w8 (some w5.heap.size) → w8.heap.size = w7.heap.size → w9.heap[w6.heap.size]? = some (.cells (ucs start256.words).toArray 27 (0, 0)) → w8.grownBy w9 (some w6.heap.size) → w9.heap.size = w8.heap.size → Two8 w w5.heap.size start512 start256 w9) := Lib.hid (by
      intro w6 w7 w8 w9 a6 z6 g6 a7 z7 g7 a8 g8 z8 a9 g9 z9
      have hz := B5.out.size
      rw [z6] at a9 g9
      exact ⟨(g9.block _ (by omega) (by simp)).trans a8, a9, by omega, (((B5.out.grown g6 hz (by simp)).grown g7 (by omega) (by simp)).grown g8 (by omega) (fun r hr => by injection hr; omega)).grown g9 (by omega) (fun r hr => by injection hr; omega), hz⟩)
    have HK7 : Hid (∀ w6 w7 : World, w6.heap[w5.heap.size]? = some (.cells (zw 8) 27 (0, 0)) → w6.heap.size = w5.heap.size + 1 → w6.grownBy w7 none → w7.heap[w5.heap.size]? = some (.cells (zw 8) 27 (0, 0))) := Lib.hid (fun w6 w7 a6 z6 g7 => (g7.block _ (by omega) (by simp)).trans a6)
    have HK8 : Hid (∀ w6 w7 w8 : World, w6.heap.size = w5.heap.size + 1 → w7.heap.size = w6.heap.size + 1 → w7.heap[w6.heap.size]? = some (.cells (zw 8) 27 (0, 0)) → w7.grownBy w8 (some w5.heap.size) → w8.heap[w6.heap.size]? = some (.cells (zw 8) 27 (0, 0))) := Lib.hid (fun w6 w7 w8 z6 z7 a7 g8 => (g8.block _ (by omega) (by simp; omega)).trans a7)
    go_wp2_with (first | (clear M1; with_reducible refine wpList_alloc_row rfl 27 rfl (.agg (zw 8)) zero27 ?_; intro w6 hh6 hz6 hg6; have A6 := Lib.hid hh6; have G6 := Lib.hid hg6; have Z6 := Lib.hid hz6; clear hh6 hg6) | (with_reducible refine wpList_alloc_row rfl 27 rfl (.agg (zw 8)) zero27 ?_; intro w7 hh7 hz7 hg7; have A7 := Lib.hid hh7; have G7 := Lib.hid hg7; have Z7 := Lib.hid hz7; clear hh7 hg7) | ((with_reducible show wpList _ _ _ (⟨none, .store 27 (.tmp 7) (.tmp 64), _, _, _, _⟩ :: _) _ _); go_must (refine wpList_store_all rfl 27 (.tmp 7) (.tmp 64) rfl w5.heap.size rfl (ucs start512.words).toArray rfl 27 (zw 8) (HK7.out w6 w7 A6.out Z6.out G7.out) (sz27 _) rfl (ucs_one _) ?_; intro w8 hh8 hg8 hz8; have A8 := Lib.hid hh8; have G8 := Lib.hid hg8; have Z8 := Lib.hid hz8; clear hh8 hg8)) | ((with_reducible show wpList _ _ _ (⟨none, .store 27 (.tmp 8) (.tmp 65), _, _, _, _⟩ :: _) _ _); go_must (refine wpList_store_all rfl 27 (.tmp 8) (.tmp 65) rfl w6.heap.size rfl (ucs start256.words).toArray rfl 27 (zw 8) (HK8.out w6 w7 w8 Z6.out Z7.out A7.out G8.out) (sz27 _) rfl (ucs_one _) ?_; intro w9 hh9 hg9 hz9; have T9 := Lib.hid (HT.out w6 w7 w8 w9 A6.out Z6.out G6.out A7.out Z7.out G7.out A8.out G8.out Z8.out hh9 hg9 hz9); clear hh9 hg9 hz9 A6 A7 A8 G6 G7 G8 Z7 Z8 HT HK7 HK8)))
    have HS9 := Lib.hid (HS.out.below' T9.out.bel (fun b h => h))
    have hle9 : w.heap.size ≤ w9.heap.size := T9.out.bel.size
    clear hz6 hz7 hz8
    clear Z6 B5
    obtain ⟨g, hg⟩ : ∃ g, g = w5.heap.size := ⟨_, rfl⟩
    rw [← hg] at T9 ⊢
    clear hg
    refine (own_any l w9 _ A l.length c HS9.out (fun b h => by omega) (by omega)).mono ?_
    rintro e2 wa ⟨v2, rfl, ho2, hb2⟩
    obtain ⟨Aa, ca, rfl, h2c, h2m, hs2⟩ := ho2.src
    have S2 := Lib.hid hs2
    have Ta := Lib.hid (T9.out.keep hb2)
    clear ho2 hs2 hb2 T9 HS9 hle9
    go_wp2_with fail
    refine (pad_any l wa _ Aa l.length ca S2.out (fun b h => h.2) (by omega) h2c h2m).mono ?_
    rintro e3 wb ⟨v3, rfl, ho3, hb3⟩
    have Tb := Lib.hid (Ta.out.keep hb3)
    obtain ⟨A3, c3, rfl, h3c, h3m, hp⟩ := ho3.src
    have HP := Lib.hid hp
    have S5 := Lib.hid (HS.out.below' Tb.out.bel (fun b h => h))
    have hwa : g + 1 < wa.heap.size := Ta.out.lt
    clear ho3 hp hb3 Ta S2 h2c h2m
    have hpl := padded_len_eq l
    have hzl := zn_lt l.length
    have HTK := Lib.hid (padded_take l)
    have hpm : (padded l).length % 128 = 0 := padded_len l
    have CS : Hid (∀ W : World, W = wb ∨ W = wb.drew → (convert 30 9 (.slice A l.length c)).run Try.prog W = .ok (.string ⟨l.toArray⟩) W ∧ (convert 30 9 (.slice A3 l.length c3)).run Try.prog W = .ok (.string ⟨l.toArray⟩) W) := Lib.hid fun W hW => by
      have ht := HP.out.take_b l.length (by omega)
      rw [HTK.out] at ht
      rcases hW with rfl | rfl
      · exact ⟨conv_src S5.out, conv_src ht⟩
      · exact ⟨conv_src (S5.out.drewN 1), conv_src (ht.drewN 1)⟩
    have HSS : Hid (sumS start512 l = runN start512 (padded l) ((padded l).length / 128) ∧ sumS start256 l = runN start256 (padded l) ((padded l).length / 128)) := Lib.hid ⟨rfl, rfl⟩
    generalize padded l = P at *
    generalize zn l.length = z at *
    obtain ⟨kb, ks⟩ := CS.out _ (.inr rfl)
    have t1 : ((P.length : Nat) : Int).tmod 128 = 0 := by rw [Int.tmod_eq_emod_of_nonneg (by omega)]; omega
    have t2 : decide ((P.length : Int) < (l.length : Int) + 17) = false := by simp; omega
    have t3 : decide ((l.length : Int) + 144 < (P.length : Int)) = false := by simp; omega
    have t4 : IntKind.i64.wrap ((l.length : Int) + 17) = (l.length : Int) + 17 := by rw [IntKind.wrap_i64]; omega
    have t5 : IntKind.i64.wrap ((l.length : Int) + 144) = (l.length : Int) + 144 := by rw [IntKind.wrap_i64]; omega
    have hp1 : l.length + 17 ≤ P.length := by omega
    have hp2 : P.length ≤ l.length + 144 := by omega
    have hp3 : (l.length : Int) < (P.length : Int) := by omega
    have hp4 : (l.length : Int) ≤ (c3 : Int) := by omega
    have HPM := Lib.hid hpm
    clear hpl hpm
    go_wp2_with fail
    refine wp_region_still_lit (by kernel_rfl) (by kernel_rfl) ?_
    repeat still_step
    refine wpStill_nil ?_
    have Tc : Hid (Two8 w g start512 start256 wb.drew) := Lib.hid (Tb.out.keep (below_drewN' (Below.refl wb.heap.size wb) 1))
    have HPc := Lib.hid (HP.out.drewN 1)
    have HSc := Lib.hid (S5.out.drewN 1)
    clear kb ks CS S5 Tb HP t1 t2 t3 t4 t5 HTK
    obtain ⟨w6, hw6⟩ : ∃ w6, w6 = wb.drew := ⟨_, rfl⟩
    have hw6' : (⟨wb.heap, wb.tape, wb.drawn + 1, wb.os, wb.output⟩ : World) = w6 := hw6.symm
    have hw6'' : wb.drewN 1 = w6 := hw6.symm
    rw [hw6''] at HPc HSc
    rw [← hw6] at Tc
    rw [hw6']
    have hwz : wb.heap.size = w6.heap.size := by rw [hw6]; rfl
    rw [hwz] at HPc
    clear hw6 hw6' hw6'' hwz
    have hp6 : P.length ≤ 2200 := by omega
    have HNP : Hid (P.length = 128 * (P.length / 128)) := Lib.hid (by have := HPM.out; omega)
    generalize hN : P.length / 128 = N at *
    have hNN : N ≤ 20 := by omega
    clear hN hp1 hp2 hp3 hp4
    go_wp2_with fail
    go_loopw [10, 11] (fun i _ wr => ∃ j x : Nat, j ≤ N ∧ x = 128 * j ∧ i = .int .i64 x ∧ Two8 w g (runN start512 P j) (runN start256 P j) wr ∧ Kp g w6 wr) (fun i _ _ => P.length - (intOf i).toNat)
    case atStart => exact ⟨0, 0, by omega, rfl, rfl, Tc.out, Kp.refl _ _⟩
    case round =>
      obtain ⟨j, x, hj, hx, rfl, ht, hbel⟩ := hrel
      have T := Lib.hid ht
      have HBL := Lib.hid hbel
      have HX := Lib.hid hx
      clear ht hbel Tc
      by_cases hlt : j < N
      · have hlt2 : x < P.length := by have := HNP.out; omega
        have hlt3 : x + 128 ≤ P.length := by have := HNP.out; omega
        obtain ⟨A', c', hs1, hq1, hq2, hr1, _, _⟩ := cut_any (HBL.out.src HPc.out (fun b hb => ⟨by omega, hb.2⟩)) h3c h3m x (x + 128) (by omega) hlt3
        rw [show x + 128 - x = 128 from by omega] at hs1 hr1
        rw [show ((x + 128 : Nat) : Int) = (x : Int) + 128 from by omega] at hr1
        have HBK : Hid (((P.drop (128 * j)).take 128).length = 128) := Lib.hid (by rw [List.length_take, List.length_drop]; omega)
        have HRS : Hid (runN start512 P (j + 1) = piece (runN start512 P j) ((P.drop (128 * j)).take 128) ∧ runN start256 P (j + 1) = piece (runN start256 P j) ((P.drop (128 * j)).take 128)) := Lib.hid ⟨rfl, rfl⟩
        have HFS := Lib.hid (runN_fits start512 P start512_fits j)
        have HFT := Lib.hid (runN_fits start256 P start256_fits j)
        rw [hx] at hs1
        generalize runN start512 P j = s at *
        generalize runN start256 P j = t at *
        generalize (P.drop (128 * j)).take 128 = blk at *
        have HC1 := Lib.hid (fun W => piece_any s HFS.out blk HBK.out W)
        have HC2 := Lib.hid (fun W => piece_any t HFT.out blk HBK.out W)
        generalize piece s blk = s1 at *
        generalize piece t blk = t1 at *
        obtain ⟨b', o', rfl, hb', hc'⟩ := hs1.lies (by omega)
        have HCB : Hid (∀ i u, (bcs blk)[i]? = some u → wr.cell? ⟨b', o' + i, none⟩ = some u) := Lib.hid (fun i u hu => by
          have hi : i < 128 := by have := (List.getElem?_eq_some_iff.1 hu).1; rw [bcs_len, HBK.out] at this; exact this
          rw [hc' i hi]
          exact hu)
        have HSB : Hid ((Try.prog.info? 33).map (·.size) = some (bcs blk).length) := Lib.hid (by rw [size33, bcs_len, HBK.out])
        have HSB2 : Hid ((Try.prog.info? 33).map (·.size) = some (bcs blk).toArray.size) := Lib.hid (by rw [size33]; simp [bcs_len, HBK.out])
        have HSB3 : Hid ((bcs blk).toArray.size = (zbs 128).size) := Lib.hid (by simp [bcs_len, HBK.out, zbs])
        have HR1 := Lib.hid hr1
        have harr := fun W => run_arr33 (some ⟨b', o', none⟩) 128 c' (by omega) W
        have hxx : (x : Int) ≤ 3000 := by omega
        clear hs1 hc' hr1 hx
        go_wp2_with (first | ((with_reducible show wpList _ _ _ (⟨some 109, .slice _ _ _ _ _, _, _, _, _⟩ :: _) _ _); go_must (refine wpList_exec rfl _ (exec_slice 30 (.tmp 105) (some (.tmp 106)) (some (.tmp 108)) rfl _ (HR1.out _)) ?_)) | ((with_reducible show wpList _ _ _ (⟨_, .load 33 (.tmp 110), _, _, _, _⟩ :: _) _ _); go_must (refine wpList_load_arr rfl 33 (.tmp 110) rfl b' o' rfl (bcs blk) HCB.out _ under33 rfl HSB.out ?_)) | (with_reducible refine wpList_alloc_row rfl 33 rfl (.agg (zbs 128)) zero33 ?_; intro wA hhA hzA hgA; have AA := Lib.hid hhA; have GA := Lib.hid hgA; have ZA := Lib.hid hzA; clear hhA hgA hzA) | ((with_reducible show wpList _ _ _ (⟨none, .store 33 (.tmp 11) (.tmp 111), _, _, _, _⟩ :: _) _ _); go_must (refine wpList_store_all rfl 33 (.tmp 11) (.tmp 111) rfl wr.heap.size rfl (bcs blk).toArray rfl 33 (zbs 128) AA.out HSB2.out HSB3.out (bcs_one _) ?_; intro wS hhS hgS hzS; have AS := Lib.hid hhS; have BS : Hid (Below wr.heap.size wr wS) := Lib.hid (((Below.refl _ wr).grown GA.out (Nat.le_refl _) (by simp)).grown hgS (by have := ZA.out; omega) (fun r hr => by injection hr; omega)); have ZS : Hid (wr.heap.size < wS.heap.size) := Lib.hid (by have := ZA.out; omega); clear hhS hgS hzS GA ZA AA)))
        have TS := Lib.hid (T.out.keep BS.out)
        have KS := Lib.hid (HBL.out.trans (Kp.of_below BS.out))
        clear T BS HBL HR1 HCB harr
        have HLD : Hid (∀ w', Below wS.heap.size wS.drew w' → (∀ i u, (ucs s.words)[i]? = some u → w'.cell? ⟨g, 0 + i, none⟩ = some u) ∧ (∀ i u, (ucs t.words)[i]? = some u → w'.cell? ⟨g + 1, 0 + i, none⟩ = some u) ∧ (∀ i u, (bcs blk)[i]? = some u → w'.cell? ⟨wr.heap.size, 0 + i, none⟩ = some u)) := Lib.hid (fun w' hk => by
          have hl := TS.out.lt
          refine ⟨fun i u hu => ?_, fun i u hu => ?_, fun i u hu => ?_⟩
          · rw [Nat.zero_add]; exact row_cells ((hk.block g (by omega)).trans TS.out.r7) i u (by simpa using hu)
          · rw [Nat.zero_add]; exact row_cells ((hk.block (g + 1) (by omega)).trans TS.out.r8) i u (by simpa using hu)
          · rw [Nat.zero_add]; exact row_cells ((hk.block wr.heap.size ZS.out).trans AS.out) i u (by simpa using hu))
        have TS0 := TS
        clear TS
        have TS : Hid (Two8 w g s t wS.drew) := Lib.hid (TS0.out.keep (below_drewN' (Below.refl wS.heap.size wS) 1))
        have KD : Hid (Kp g w6 wS.drew) := Lib.hid (KS.out.trans (Kp.of_below (below_drewN' (Below.refl wS.heap.size wS) 1)))
        refine startW (fun i => i == 6 || i == 7) wS.heap.size (by kernel_rfl) ?_
        refine takeT (i := 0) (oi := { dst := some 112, op := Op.load 27 (Operand.tmp 7), type := 27, pos := "law.go:119", after := #[], guard := none }) (.agg (ucs s.words).toArray) rfl (by kernel_rfl) (by kernel_rfl) (by kernel_rfl) (by kernel_rfl) (by kernel_rfl) (fun _ _ _ h => h) (by rfl) (fun w' hk => exec_load 27 (.tmp 7) rfl g 0 rfl (ucs s.words) (HLD.out w' hk).1 _ under27 rfl (sz27l s)) ?_
        simp only [Act.put, List.setIfInBounds_toArray, List.set_cons_zero, List.set_cons_succ]
        refine takeT (i := 1) (oi := { dst := some 113, op := Op.load 33 (Operand.tmp 11), type := 33, pos := "law.go:119", after := #[], guard := none }) (.agg (bcs blk).toArray) rfl (by kernel_rfl) (by kernel_rfl) (by kernel_rfl) (by kernel_rfl) (by kernel_rfl) (fun _ _ _ h => h) (by rfl) (fun w' hk => exec_load 33 (.tmp 11) rfl wr.heap.size 0 rfl (bcs blk) (HLD.out w' hk).2.2 _ under33 rfl HSB.out) ?_
        simp only [Act.put, List.setIfInBounds_toArray, List.set_cons_zero, List.set_cons_succ]
        refine takeT (i := 3) (oi := { dst := some 115, op := Op.load 27 (Operand.tmp 8), type := 27, pos := "law.go:119", after := #[], guard := none }) (.agg (ucs t.words).toArray) rfl (by kernel_rfl) (by kernel_rfl) (by kernel_rfl) (by kernel_rfl) (by kernel_rfl) (fun _ _ _ h => h) (by rfl) (fun w' hk => exec_load 27 (.tmp 8) rfl (g + 1) 0 rfl (ucs t.words) (HLD.out w' hk).2.1 _ under27 rfl (sz27l t)) ?_
        simp only [Act.put, List.setIfInBounds_toArray, List.set_cons_zero, List.set_cons_succ]
        refine takeT (i := 4) (oi := { dst := some 116, op := Op.load 33 (Operand.tmp 11), type := 33, pos := "law.go:119", after := #[], guard := none }) (.agg (bcs blk).toArray) rfl (by kernel_rfl) (by kernel_rfl) (by kernel_rfl) (by kernel_rfl) (by kernel_rfl) (fun _ _ _ h => h) (by rfl) (fun w' hk => exec_load 33 (.tmp 11) rfl wr.heap.size 0 rfl (bcs blk) (HLD.out w' hk).2.2 _ under33 rfl HSB.out) ?_
        simp only [Act.put, List.setIfInBounds_toArray, List.set_cons_zero, List.set_cons_succ]
        refine callW (i := 2) (oi := { dst := some 114, op := Op.call { callee := Callee.value (Operand.func 21), args := #[Operand.tmp 112, Operand.tmp 113], argTypes := #[27, 33] }, type := 27, pos := "law.go:119", after := #[{ on := 0, ground := Ground.data }, { on := 1, ground := Ground.data }], guard := none }) rfl (by kernel_rfl) (by rfl) ?_ ((HC1.out _).mono ?_)
        · go_simp
        rintro e1 x1 ⟨rfl, hx1⟩
        refine ⟨_, rfl, fun _ => hx1, ?_⟩
        simp only [Act.put, List.setIfInBounds_toArray, List.set_cons_zero, List.set_cons_succ]
        have X1 := Lib.hid (TS.out.keep (hx1))
        have Y1 := Lib.hid hx1
        clear hx1
        refine callW (i := 5) (oi := { dst := some 117, op := Op.call { callee := Callee.value (Operand.func 21), args := #[Operand.tmp 115, Operand.tmp 116], argTypes := #[27, 33] }, type := 27, pos := "law.go:119", after := #[{ on := 3, ground := Ground.data }, { on := 4, ground := Ground.data }, { on := 2, ground := Ground.chain }], guard := none }) rfl (by kernel_rfl) (by rfl) ?_ ((HC2.out _).mono ?_)
        · go_simp
        rintro e2 x2 ⟨rfl, hx2⟩
        refine ⟨_, rfl, fun _ => hx2.mono Y1.out.size, ?_⟩
        simp only [Act.put, List.setIfInBounds_toArray, List.set_cons_zero, List.set_cons_succ]
        have X2 := Lib.hid (X1.out.keep hx2)
        have Y2 := Lib.hid (Y1.out.trans (hx2.mono Y1.out.size))
        clear hx2 X1 Y1
        refine storeW_all (i := 6) (oi := { dst := none, op := Op.store 27 (Operand.tmp 7) (Operand.tmp 114), type := 0, pos := "law.go:119", after := #[{ on := 2, ground := Ground.data }, { on := 5, ground := Ground.chain }, { on := 0, ground := Ground.phase }, { on := 1, ground := Ground.phase }, { on := 2, ground := Ground.phase }, { on := 3, ground := Ground.textOnly Departure.lateStores }, { on := 4, ground := Ground.textOnly Departure.lateStores }, { on := 5, ground := Ground.textOnly Departure.lateStoresUnsure }], guard := none }) rfl (by kernel_rfl) (by rfl) 27 (.tmp 7) (.tmp 114) rfl g rfl (ucs s1.words).toArray rfl 27 (ucs s.words).toArray X2.out.r7 (sz27 s1) (sizes27 s1 s) (ucs_one _) rfl ?_
        intro x3 hh3 hg3 hz3
        simp only [Act.put]
        refine storeW_all (i := 7) (oi := { dst := none, op := Op.store 27 (Operand.tmp 8) (Operand.tmp 117), type := 0, pos := "law.go:119", after := #[{ on := 5, ground := Ground.data }, { on := 6, ground := Ground.chain }, { on := 0, ground := Ground.phase }, { on := 1, ground := Ground.phase }, { on := 2, ground := Ground.phase }, { on := 3, ground := Ground.phase }, { on := 4, ground := Ground.phase }, { on := 5, ground := Ground.phase }, { on := 6, ground := Ground.phase }], guard := none }) rfl (by kernel_rfl) (by rfl) 27 (.tmp 8) (.tmp 117) rfl (g + 1) rfl (ucs t1.words).toArray rfl 27 (ucs t.words).toArray (X2.out.store7 hg3) (sz27 t1) (sizes27 t1 t) (ucs_one _) rfl ?_
        intro x4 hh4 hg4 hz4
        simp only [Act.put]
        have X4 := Lib.hid (X2.out.store8 hh3 hg3 hz3 hh4 hg4 hz4)
        clear hh3 hg3 hz3 hh4 hg4 hz4
        refine doneW (by kernel_rfl) ?_ _
        have KF : Hid (Kp g w6 x4) := Lib.hid ((KD.out.trans (Kp.of_below Y2.out)).trans X4.out.2)
        have XF := Lib.hid X4.out.1
        rw [← HRS.out.1, ← HRS.out.2] at XF
        clear X4 X2 Y2 KD KS TS TS0 HLD AS HRS
        go_wp2
        go_roundw
        case rel =>
          first | exact ⟨j + 1, x + 128, by omega, by have := HX.out; omega, by go_num, XF.out, KF.out⟩ | ((repeat apply Exists.intro); exact ⟨⟨j + 1, x + 128, by omega, by have := HX.out; omega, by go_num, XF.out, KF.out⟩, rfl⟩)
        case measure => simp [intOf]; omega
      · obtain rfl : j = N := by omega
        have hxe : x = P.length := by have := HNP.out; have := HX.out; omega
        subst hxe
        clear hlt hj
        have HW1 : Hid (sum512 l = oct (runN start512 P j).words) := Lib.hid (by rw [← HSS.out.1]; rfl)
        have HW2 : Hid (sum256 l = (oct (runN start256 P j).words).take 32) := Lib.hid (by rw [← HSS.out.2]; rfl)
        have HLA := Lib.hid (sum512_len l)
        have HLB := Lib.hid (sum256_len l)
        have HB : Hid (∀ b, b < w.heap.size → b < wr.heap.size) := Lib.hid (fun b hb => by have := T.out.bel.size; omega)
        have HP1 := Lib.hid (PT.one (HS.out.below' T.out.bel (fun b h => h)) HB.out ⟨hnc, HC.out⟩)
        have T1 := Lib.hid (T.out.keep (below_alloc wr (.cells #[.slice A l.length c] 30)))
        have HLL := Lib.hid (show l.length ≤ 1000000000 by omega)
        clear T HBL HPc HSc HSS HB
        go_wp2_with fail
        refine (HP1.out.sum512 l (by simp) HLL.out 1 rfl (by omega)).mono ?_
        rintro e1 x1 ⟨rfl, hx1⟩
        have T2 := Lib.hid (T1.out.keep hx1)
        clear hx1 T1 HP1
        have HB : Hid (∀ b, b < w.heap.size → b < x1.heap.size) := Lib.hid (fun b hb => by have := T2.out.bel.size; omega)
        have HP1 := Lib.hid (PT.one (HS.out.below' T2.out.bel (fun b h => h)) HB.out ⟨hnc, HC.out⟩)
        have T3 := Lib.hid (T2.out.keep (below_alloc x1 (.cells #[.slice A l.length c] 30)))
        clear T2 HB
        go_wp2_with fail
        refine (HP1.out.sum256 l (by simp) HLL.out 1 rfl (by omega)).mono ?_
        rintro e2 x2 ⟨rfl, hx2⟩
        have T4 := Lib.hid (T3.out.keep hx2)
        clear hx2 T3 HP1
        generalize sum512 l = D1 at *
        generalize sum256 l = D2 at *
        have HSL : Hid ((runN start512 P j).words.length = 8 ∧ (runN start256 P j).words.length = 8) := Lib.hid ⟨rfl, rfl⟩
        generalize runN start512 P j = s at *
        generalize runN start256 P j = t at *
        have HK7 : Hid (∀ w6 w7 : World, w6.heap[x2.heap.size]? = some (.cells (zbs 64) 22 (0, 0)) → w6.heap.size = x2.heap.size + 1 → w6.grownBy w7 none → w7.heap[x2.heap.size]? = some (.cells (zbs 64) 22 (0, 0))) := Lib.hid (fun w6 w7 a6 z6 g7 => (g7.block _ (by omega) (by simp)).trans a6)
        have HK8 : Hid (∀ w6 w7 w8 : World, w6.heap.size = x2.heap.size + 1 → w7.heap.size = w6.heap.size + 1 → w7.heap[w6.heap.size]? = some (.cells (zbs 32) 35 (0, 0)) → w7.grownBy w8 (some x2.heap.size) → w8.heap[w6.heap.size]? = some (.cells (zbs 32) 35 (0, 0))) := Lib.hid (fun w6 w7 w8 z6 z7 a7 g8 => (g8.block _ (by omega) (by simp; omega)).trans a7)
        have HT : Hid (∀ w6 w7 w8 w9 : World, w6.heap.size = x2.heap.size + 1 → x2.grownBy w6 none → w7.heap.size = w6.heap.size + 1 → w6.grownBy w7 none →
            w8.heap[x2.heap.size]? = some (.cells (bcs D1).toArray 22 (0, 0)) → w7.grownBy w8 (some x2.heap.size) → w8.heap.size = w7.heap.size → w9.heap[w6.heap.size]? = some (.cells (bcs D2).toArray 35 (0, 0)) → w8.grownBy w9 (some w6.heap.size) → End4 w g x2.heap.size s.words t.words D1 D2 w9) := Lib.hid (by
          intro w6 w7 w8 w9 z6 g6 z7 g7 a8 g8 z8 a9 g9
          have hl := T4.out.lt
          have hz := T4.out.bel.size
          rw [z6] at a9 g9
          have hk : ∀ k, k < x2.heap.size → w9.heap[k]? = x2.heap[k]? := fun k hk => (g9.block _ (by omega) (by simp; omega)).trans ((g8.block _ (by omega) (by simp; omega)).trans ((g7.block _ (by omega) (by simp)).trans (g6.block _ hk (by simp))))
          exact ⟨(hk g (by omega)).trans T4.out.r7, (hk (g + 1) (by omega)).trans T4.out.r8, (g9.block _ (by omega) (by simp)).trans a8, a9, (((T4.out.bel.grown g6 hz (by simp)).grown g7 (by omega) (by simp)).grown g8 (by omega) (fun r hr => by injection hr; omega)).grown g9 (by omega) (fun r hr => by injection hr; omega)⟩)
        have M1 : Hid True := trivial
        go_wp2_with (first | (clear M1; with_reducible refine wpList_alloc_row rfl 22 rfl (.agg (zbs 64)) zero22 ?_; intro w6 hh6 hz6 hg6; have A6 := Lib.hid hh6; have G6 := Lib.hid hg6; have Z6 := Lib.hid hz6; clear hh6 hg6) | (with_reducible refine wpList_alloc_row rfl 35 rfl (.agg (zbs 32)) zero35 ?_; intro w7 hh7 hz7 hg7; have A7 := Lib.hid hh7; have G7 := Lib.hid hg7; have Z7 := Lib.hid hz7; clear hh7 hg7) | ((with_reducible show wpList _ _ _ (⟨none, .store 22 (.tmp 12) (.tmp 120), _, _, _, _⟩ :: _) _ _); go_must (refine wpList_store_all rfl 22 (.tmp 12) (.tmp 120) rfl x2.heap.size rfl (bcs D1).toArray rfl 22 (zbs 64) (HK7.out w6 w7 A6.out Z6.out G7.out) (sz22 _ HLA.out) (fit22 _ HLA.out) (bcs_one _) ?_; intro w8 hh8 hg8 hz8; have A8 := Lib.hid hh8; have G8 := Lib.hid hg8; have Z8 := Lib.hid hz8; clear hh8 hg8)) | ((with_reducible show wpList _ _ _ (⟨none, .store 35 (.tmp 13) (.tmp 123), _, _, _, _⟩ :: _) _ _); go_must (refine wpList_store_all rfl 35 (.tmp 13) (.tmp 123) rfl w6.heap.size rfl (bcs D2).toArray rfl 35 (zbs 32) (HK8.out w6 w7 w8 Z6.out Z7.out A7.out G8.out) (sz35 _ HLB.out) (fit35 _ HLB.out) (bcs_one _) ?_; intro w9 hh9 hg9 hz9; have T9 := Lib.hid (HT.out w6 w7 w8 w9 Z6.out G6.out Z7.out G7.out A8.out G8.out Z8.out hh9 hg9); clear hh9 hg9 hz9 A6 A7 A8 G6 G7 G8 Z7 Z8 HT HK7 HK8)))
        clear T4 HS HX HNP HLL HPM
        generalize s.words = S at *
        generalize t.words = U at *
        go_loopw [14] (fun i wr => ∃ n : Nat, n ≤ 64 ∧ i = .int .i64 n ∧ End4 w g x2.heap.size S U D1 D2 wr) (fun i _ => 64 - (intOf i).toNat)
        case atStart => exact ⟨0, by omega, rfl, T9.out⟩
        case round =>
          obtain ⟨n, hn, rfl, ht⟩ := hrel
          have T := Lib.hid ht
          clear ht T9
          by_cases hlt : n < 64
          · have HD1 : Hid ((bcs D1)[n]? = some (.int .u8 ((octb S n).toNat : Int))) := Lib.hid (by rw [HW1.out, bcs_get]; exact oct_get S n hlt)
            have HD2 : Hid (n < 32 → (bcs D2)[n]? = some (.int .u8 ((octb U n).toNat : Int))) := Lib.hid (fun h => by rw [HW2.out, bcs_get, List.getElem?_take, if_pos h]; exact oct_get U n hlt)
            have hq : n / 8 < 8 := by omega
            have ca : wr.cell? ⟨x2.heap.size, n, none⟩ = some (.int .u8 ((octb S n).toNat : Int)) := row_cells T.out.ra n _ (by simpa using HD1.out)
            have cg := word_cell T.out.r7 (n / 8) (by rw [HSL.out.1]; exact hq)
            have ch := word_cell T.out.r8 (n / 8) (by rw [HSL.out.2]; exact hq)
            have v1 : ((S.getD (n / 8) 0 : Nat) : Int) / 2 ^ (56 - 8 * (n % 8)) % 256 = ((octb S n).toNat : Int) := byte_of _ _ _ rfl
            have v2 : ((U.getD (n / 8) 0 : Nat) : Int) / 2 ^ (56 - 8 * (n % 8)) % 256 = ((octb U n).toNat : Int) := byte_of _ _ _ rfl
            have t1 : (n : Int).tdiv 8 = ((n / 8 : Nat) : Int) := by rw [Int.tdiv_eq_ediv_of_nonneg (by omega)]; omega
            have t2 : (n : Int).tmod 8 = ((n % 8 : Nat) : Int) := by rw [Int.tmod_eq_emod_of_nonneg (by omega)]; omega
            have t3 : (n : Int) / 8 = ((n / 8 : Nat) : Int) := by omega
            have t4 : (n : Int) % 8 = ((n % 8 : Nat) : Int) := by omega
            have hr : n % 8 ≤ 7 := by omega
            have CB : Hid (n < 32 → wr.cell? ⟨x2.heap.size + 1, n, none⟩ = some (.int .u8 ((octb U n).toNat : Int))) := Lib.hid (fun h => row_cells T.out.rb n _ (by simpa using HD2.out h))
            clear HD1 HD2
            generalize (octb S n).toNat = y1 at *
            generalize (octb U n).toNat = y2 at *
            generalize S.getD (n / 8) 0 = x1' at *
            generalize U.getD (n / 8) 0 = x2' at *
            generalize n / 8 = q at *
            generalize n % 8 = r at *
            have b1 : (q : Int) < 8 := by omega
            have b2 : (r : Int) ≤ 7 := by omega
            have b3 : (n : Int) < 64 := by omega
            have e1 : ((y1 : Int) != (y1 : Int)) = false := by simp
            have e2 : ((y2 : Int) != (y2 : Int)) = false := by simp
            have w1 : IntKind.i64.wrap (8 * (r : Int)) = 8 * (r : Int) := IntWalk.i64_in _ (by omega)
            have w2 : IntKind.i64.wrap (56 - 8 * (r : Int)) = 56 - 8 * (r : Int) := IntWalk.i64_in _ (by omega)
            have w3 : IntKind.u64.wrap (56 - 8 * (r : Int)) = 56 - 8 * (r : Int) := by rw [IntKind.wrap_u64]; omega
            have w4 : (0 : Int) ≤ 56 - 8 * (r : Int) := by omega
            have w5 : (56 - 8 * (r : Int)) ≤ 63 := by omega
            have w6 : (56 - 8 * (r : Int)).toNat = 56 - 8 * r := by omega
            by_cases h32 : n < 32
            · have hd : decide ((n : Int) < 32) = true := by simp; omega
              have cb := CB.out h32
              go_wp2_with fail
              go_quiet (fail)
              have T2 := Lib.hid (T.out.drewN nq)
              generalize wr.drewN nq = wq at *
              clear T v1 v2 t1 t2 t3 t4 w1 w2 w3 w4 w5 w6 e1 e2 CB ca cg ch cb
              go_wp2
              go_roundw
              case rel =>
                first | exact ⟨n + 1, by omega, by go_num, T2.out⟩ | ((repeat apply Exists.intro); exact ⟨⟨n + 1, by omega, by go_num, T2.out⟩, rfl⟩)
              case measure => simp [intOf]; omega
            · have hd : decide ((n : Int) < 32) = false := by simp; omega
              go_wp2_with fail
              go_quiet (fail)
              have T2 := Lib.hid (T.out.drewN nq)
              generalize wr.drewN nq = wq at *
              clear T v1 v2 t1 t2 t3 t4 w1 w2 w3 w4 w5 w6 e1 e2 CB ca cg ch
              go_wp2
              go_roundw
              case rel =>
                first | exact ⟨n + 1, by omega, by go_num, T2.out⟩ | ((repeat apply Exists.intro); exact ⟨⟨n + 1, by omega, by go_num, T2.out⟩, rfl⟩)
              case measure => simp [intOf]; omega
          · obtain rfl : n = 64 := by omega
            go_wp2
            go_ret
            exact ⟨rfl, T.out.bel⟩
end Go.Proofs.Ytphalfpmgbmcaaa
