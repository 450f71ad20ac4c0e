/- Several texts in one. No statement is proved here. -/
import Derived.Test.YtgdimnbdnepbgaaK5
import Derived.Test.YtgdimnbdnepbgaaK3
/- Bytes of a number, one bit after the other: for the reference's Close. No statement is proved here. -/
namespace Go.Proofs.Ytgdimnbdnepbgaa
open Go.RowKit
set_option linter.unusedVariables false
set_option maxRecDepth 40000
set_option linter.unusedSimpArgs false

theorem leb_lt : ∀ l : List UInt8, leb l < 256 ^ l.length
  | [] => by simp [leb]
  | b :: t => by
    have ih := leb_lt t
    have hb := UInt8.toNat_lt b
    simp only [leb, List.length_cons, Nat.pow_succ]
    omega
theorem leb_byte : ∀ (l : List UInt8) (j : Nat), leb l / 256 ^ j % 256 = (l.getD j 0).toNat
  | [], j => by simp [leb]
  | b :: t, 0 => by
    have hb := UInt8.toNat_lt b
    simp only [leb, Nat.pow_zero, Nat.div_one, List.getD_cons_zero]
    omega
  | b :: t, j + 1 => by
    have ih := leb_byte t j
    have hb := UInt8.toNat_lt b
    rw [List.getD_cons_succ, ← ih, Nat.pow_succ, Nat.mul_comm, ← Nat.div_div_eq_div_mul]
    simp only [leb]
    rw [show (b.toNat + 256 * leb t) / 256 = leb t from by omega]
theorem leb_set : ∀ (l : List UInt8) (j : Nat) (b : UInt8), j < l.length → leb (l.set j b) + 256 ^ j * (l.getD j 0).toNat = leb l + 256 ^ j * b.toNat
  | [], j, b, h => absurd h (by simp)
  | c :: t, 0, b, h => by
    simp only [leb, List.set_cons_zero, List.getD_cons_zero, Nat.pow_zero]
    omega
  | c :: t, j + 1, b, h => by
    have ih := leb_set t j b (by simpa using h)
    simp only [leb, List.set_cons_succ, List.getD_cons_succ]
    rw [Nat.pow_succ, Nat.mul_comm (256 ^ j) 256, Nat.mul_assoc, Nat.mul_assoc]
    omega
theorem leb_inj (l : List UInt8) (h : l.length = 32) : l = enc (leb l) := by
  rw [← nv_leb l h, enc_nv l h]
/-- The byte that holds bit m of a number below 2^m has room for it. -/
theorem room (l : List UInt8) (m : Nat) (h : leb l < 2 ^ m) : (l.getD (m / 8) 0).toNat < 2 ^ (m % 8) := by
  rw [← leb_byte l (m / 8)]
  have e : (256 : Nat) ^ (m / 8) = 2 ^ (8 * (m / 8)) := by rw [Nat.pow_mul]
  rw [e]
  have hm : 2 ^ m = 2 ^ (m % 8) * 2 ^ (8 * (m / 8)) := by rw [← Nat.pow_add]; congr 1; omega
  rw [hm] at h
  have h2 : leb l / 2 ^ (8 * (m / 8)) < 2 ^ (m % 8) := by rw [Nat.div_lt_iff_lt_mul (Nat.two_pow_pos _)]; exact h
  exact Nat.lt_of_le_of_lt (Nat.mod_le _ _) h2
theorem byte_pow (m : Nat) : 2 ^ (m % 8) < 256 := Nat.lt_of_le_of_lt (Nat.pow_le_pow_right (by decide) (show m % 8 ≤ 7 by omega)) (by decide)
theorem put_bit (l : List UInt8) (hl : l.length = 32) (V m : Nat) (hm : m < 256) (h : leb l = V % 2 ^ m) (hb : V / 2 ^ m % 2 = 1) (c : Nat) (hc : c = (l.getD (m / 8) 0).toNat + 2 ^ (m % 8)) :
    c < 256 ∧ leb (l.set (m / 8) (UInt8.ofNat c)) = V % 2 ^ (m + 1) := by
  have hr := room l m (by rw [h]; exact Nat.mod_lt _ (Nat.two_pow_pos _))
  have h7 : 2 ^ (m % 8) ≤ 128 := Nat.pow_le_pow_right (by decide) (show m % 8 ≤ 7 by omega)
  have hc2 : c < 256 := by omega
  refine ⟨hc2, ?_⟩
  have hs := leb_set l (m / 8) (UInt8.ofNat c) (by omega)
  rw [of_byte, Nat.mod_eq_of_lt hc2] at hs
  have e : (256 : Nat) ^ (m / 8) = 2 ^ (8 * (m / 8)) := by rw [Nat.pow_mul]
  have hm2 : 2 ^ m = 2 ^ (8 * (m / 8)) * 2 ^ (m % 8) := by rw [← Nat.pow_add]; congr 1; omega
  subst hc
  rw [Nat.mul_add, ← Nat.add_assoc, e, ← hm2] at hs
  rw [Nat.mod_pow_succ, hb, Nat.mul_one, ← h]
  omega
theorem no_bit (V m : Nat) (hb : V / 2 ^ m % 2 = 0) : V % 2 ^ (m + 1) = V % 2 ^ m := by
  rw [Nat.mod_pow_succ, hb, Nat.mul_zero, Nat.add_zero]
/-- A word in its bits is its part of the number. -/
theorem X10_digit (o : List Nat) (h : X10 o) (n : Nat) (hn : n < 10) : val10 o / 2 ^ off n % 2 ^ b10 n = o.getD n 0 := by
  obtain ⟨hl, hw⟩ := h
  obtain ⟨a0, a1, a2, a3, a4, a5, a6, a7, a8, a9, rfl⟩ := ten o hl
  have w0 : a0 < 67108864 := hw 0 (by omega)
  have w1 : a1 < 33554432 := hw 1 (by omega)
  have w2 : a2 < 67108864 := hw 2 (by omega)
  have w3 : a3 < 33554432 := hw 3 (by omega)
  have w4 : a4 < 67108864 := hw 4 (by omega)
  have w5 : a5 < 33554432 := hw 5 (by omega)
  have w6 : a6 < 67108864 := hw 6 (by omega)
  have w7 : a7 < 33554432 := hw 7 (by omega)
  have w8 : a8 < 67108864 := hw 8 (by omega)
  have w9 : a9 < 33554432 := hw 9 (by omega)
  clear hw hl
  have hn10 : n = 0 ∨ n = 1 ∨ n = 2 ∨ n = 3 ∨ n = 4 ∨ n = 5 ∨ n = 6 ∨ n = 7 ∨ n = 8 ∨ n = 9 := by omega
  simp only [val10]
  rcases hn10 with rfl | rfl | rfl | rfl | rfl | rfl | rfl | rfl | rfl | rfl
  · show _ / 1 % 67108864 = a0; omega
  · show _ / 67108864 % 33554432 = a1; omega
  · show _ / 2251799813685248 % 67108864 = a2; omega
  · show _ / 151115727451828646838272 % 33554432 = a3; omega
  · show _ / 5070602400912917605986812821504 % 67108864 = a4; omega
  · show _ / 340282366920938463463374607431768211456 % 33554432 = a5; omega
  · show _ / 11417981541647679048466287755595961091061972992 % 67108864 = a6; omega
  · show _ / 766247770432944429179173513575154591809369561091801088 % 33554432 = a7; omega
  · show _ / 25711008708143844408671393477458601640355247900524685364822016 % 67108864 = a8; omega
  · show _ / 1725436586697640946858688965569256363112777243042596638790631055949824 % 33554432 = a9; omega
theorem X10_bit (o : List Nat) (h : X10 o) (n k : Nat) (hn : n < 10) (hk : k < b10 n) : val10 o / 2 ^ (off n + k) % 2 = o.getD n 0 / 2 ^ k % 2 := by
  rw [← X10_digit o h n hn, Nat.pow_add, ← Nat.div_div_eq_div_mul]
  generalize val10 o / 2 ^ off n = x
  obtain ⟨j, hj⟩ : ∃ j, b10 n = k + (j + 1) := ⟨b10 n - k - 1, by omega⟩
  rw [hj, Nat.pow_add, Nat.mod_mul, Nat.add_mul_div_left _ _ (Nat.two_pow_pos k), Nat.div_eq_of_lt (Nat.mod_lt _ (Nat.two_pow_pos k)), Nat.zero_add, Nat.pow_succ, Nat.mul_comm (2 ^ j) 2, Nat.mod_mul_right_mod]

theorem tops : ∀ r, r < 19 → enc (PP + r) = UInt8.ofNat (237 + r) :: (List.replicate 30 255 ++ [127]) := by decide +kernel
theorem top_of (l : List UInt8) (hl : l.length = 32) (hV : leb l < 57896044618658097711785492504343953926634992332820282019728792003956564819968) (h : ¬ leb l < PP) : ∃ r, r < 19 ∧ leb l = PP + r ∧ l = UInt8.ofNat (237 + r) :: (List.replicate 30 255 ++ [127]) := by
  unfold PP at h
  refine ⟨leb l - PP, by unfold PP; omega, by unfold PP; omega, ?_⟩
  have e := leb_inj l hl
  rw [← tops (leb l - PP) (by unfold PP; omega), show PP + (leb l - PP) = leb l from by unfold PP; omega, ← e]
theorem closeA (l : List UInt8) (hl : l.length = 32) (hV : leb l < 57896044618658097711785492504343953926634992332820282019728792003956564819968)
    (h : (l.getD 0 0).toNat < 237 ∨ (l.getD 31 0).toNat ≠ 127 ∨ ∃ i, 0 < i ∧ i < 31 ∧ (l.getD i 0).toNat ≠ 255) : l = enc (leb l % PP) := by
  by_cases hp : leb l < PP
  · rw [Nat.mod_eq_of_lt hp]; exact leb_inj l hl
  · obtain ⟨r, hr, _, e⟩ := top_of l hl hV hp
    rw [e] at h
    rcases h with h | h | ⟨i, h0, h1, h⟩
    · rw [List.getD_cons_zero, of_byte] at h
      omega
    · exact absurd rfl h
    · obtain ⟨j, rfl⟩ : ∃ j, i = j + 1 := ⟨i - 1, by omega⟩
      rw [List.getD_cons_succ, List.getD_eq_getElem?_getD, List.getElem?_append_left (by rw [List.length_replicate]; omega), List.getElem?_replicate, if_pos (by omega)] at h
      exact absurd rfl h
theorem closeB (l : List UInt8) (hl : l.length = 32) (h0 : ¬ (l.getD 0 0).toNat < 237) (h31 : (l.getD 31 0).toNat = 127) (hi : ∀ i, 0 < i → i < 31 → (l.getD i 0).toNat = 255) :
    enc (leb l % PP) = UInt8.ofNat ((l.getD 0 0).toNat - 237) :: List.replicate 31 0 := by
  have hb := UInt8.toNat_lt (l.getD 0 0)
  obtain ⟨r, hr⟩ : ∃ r, (l.getD 0 0).toNat = 237 + r := ⟨(l.getD 0 0).toNat - 237, by omega⟩
  have hr19 : r < 19 := by omega
  have e : l = enc (PP + r) := by
    rw [tops r hr19]
    apply List.ext_getElem
    · rw [hl]; rfl
    · intro i h1 h2
      have hg : (l.getD i 0) = l[i] := by rw [List.getD_eq_getElem?_getD, List.getElem?_eq_getElem h1]; rfl
      rw [← hg]
      apply UInt8.toNat_inj.1
      by_cases e0 : i = 0
      · subst e0
        rw [hr, List.getElem_cons_zero, of_byte]
        omega
      · by_cases e31 : i = 31
        · subst e31
          rw [h31]
          rfl
        · rw [hi i (by omega) (by omega)]
          obtain ⟨j, rfl⟩ : ∃ j, i = j + 1 := ⟨i - 1, by omega⟩
          rw [List.getElem_cons_succ, List.getElem_append_left (by rw [List.length_replicate]; omega), List.getElem_replicate]
          rfl
  have hv : leb l = PP + r := by rw [← nv_leb l hl, e, nv_enc _ (by unfold PP; omega)]
  rw [hv, Nat.add_mod_left, Nat.mod_eq_of_lt (by unfold PP; omega), hr, Nat.add_sub_cancel_left]
  have : ∀ r, r < 19 → enc r = UInt8.ofNat r :: List.replicate 31 0 := by decide +kernel
  exact this r hr19
end Go.Proofs.Ytgdimnbdnepbgaa
/- The reference's Close. No statement is proved here. -/
namespace Go.Proofs.Ytgdimnbdnepbgaa
open Go.RowKit
set_option linter.unusedVariables false
set_option maxRecDepth 40000
set_option linter.unusedSimpArgs false

/-- The memory of Close. -/
structure Cz (w : World) (g : Nat) (x : List Nat) (l : List UInt8) (w' : World) : Prop where
  hg : w.heap.size + 2 ≤ g
  x : IAt w' w.heap.size x
  res : w'.heap[w.heap.size + 1]? = some (.cells (zbs 32) 23 (0, 0))
  b : BAt w' g l
  bel : Below w.heap.size w w'
theorem Cz.set {w : World} {g : Nat} {x : List Nat} {l l' : List UInt8} {w' w'' : World} {t : TypeId} (h : Cz w g x l w') (hg : w'.grownBy w'' (some g)) (hl : l'.length = 32) (hh : w''.heap[g]? = some (.cells (bcs l').toArray t (0, 0))) : Cz w g x l' w'' :=
  ⟨h.hg, h.x.grown hg (by have := h.hg; simp; omega), (hg.block _ (Array.getElem?_eq_some_iff.1 h.res).1 (by have := h.hg; simp; omega)).trans h.res, ⟨hl, t, hh⟩, h.bel.grown hg h.bel.size (fun r hr => by have := h.hg; injection hr; omega)⟩
theorem Cz.start {w : World} {x : List Nat} {w1 w2 w3 w4 w5 : World} (hx : x.length = 10)
    (z1 : w1.heap.size = w.heap.size + 1) (g1 : w.grownBy w1 none)
    (h2 : w2.heap[w1.heap.size]? = some (.cells (zbs 32) 23 (0, 0))) (z2 : w2.heap.size = w1.heap.size + 1) (g2 : w1.grownBy w2 none)
    (b3 : Below w2.heap.size w2 w3)
    (h4 : w4.heap[w.heap.size]? = some (.cells (ics x).toArray 65 (0, 0))) (g4 : w3.grownBy w4 (some w.heap.size)) (z4 : w4.heap.size = w3.heap.size)
    (h5 : w5.heap[w4.heap.size]? = some (.cells (zbs 32) 23 (0, 0))) (g5 : w4.grownBy w5 none) : Cz w w4.heap.size x (List.replicate 32 0) w5 := by
  have b1 := below_of_grownBy g1
  have b2 := below_of_grownBy g2
  have b5 := below_of_grownBy g5
  rw [z1] at h2 b2 z2
  have b3s := b3.size
  rw [z2] at b3 b3s
  have k4 : Below w.heap.size w3 w4 := (Below.refl _ _).grown g4 (by omega) (fun r hr => by injection hr; omega)
  refine ⟨by omega, ⟨hx, 65, ?_⟩, ?_, ⟨rfl, 23, h5⟩, ?_⟩
  · exact (b5.block _ (by omega)).trans h4
  · exact (b5.block _ (by omega)).trans ((g4.block _ (by omega) (by simp)).trans ((b3.block _ (by omega)).trans h2))
  · exact b1.trans ((b2.mono (by omega)).trans ((b3.mono (by omega)).trans (k4.trans (b5.mono (by omega)))))

theorem put_int (a k : Nat) (h : a + 2 ^ k < 256) : ((a : Int) + 2 ^ k % 256) % 256 = ((a + 2 ^ k : Nat) : Int) := by
  rw [show ((2 : Int) ^ k) = ((2 ^ k : Nat) : Int) from by simp]
  generalize 2 ^ k = p at *
  omega
theorem run_build1 (n : Int) (w : World) : (Instr.build 23 #[(0, .int .u8 n)]).run Try.prog w = .ok (.agg (.int .u8 n :: List.replicate 31 (.int .u8 0)).toArray) w := by kernel_rfl
theorem exec_build1 {o : Oper} {a : Act} {w : World} (x : Operand) (n : Int) (v : Value) (ho : o.op = .build 23 #[(0, x)]) (hx : a.eval x = .int .u8 n) (hv : .agg (.int .u8 n :: List.replicate 31 (.int .u8 0)).toArray = v) : (execOp a.eval o).run Try.prog w = .ok (.value v) w := by
  unfold execOp
  simp only [ho, List.map_toArray, List.map_cons, List.map_nil, Sem.run_bind, Sem.run_pure, hx]
  rw [run_build1 n w, hv]
  rfl
theorem word_bit (x : List Nat) (n m : Nat) : (if (((((x[n]?.getD 0 : Nat) : Int) / 2 ^ m).tmod 2 == 1)) = true then 1 else 0) = x.getD n 0 / 2 ^ m % 2 := by
  rw [List.getD_eq_getElem?_getD, show ((2 : Int) ^ m) = ((2 ^ m : Nat) : Int) from by simp, ← Int.natCast_ediv]
  generalize x[n]?.getD 0 / 2 ^ m = z
  rw [show ((z : Int)).tmod 2 = ((z % 2 : Nat) : Int) from rfl]
  by_cases h : z % 2 = 1
  · rw [h]; rfl
  · have h0 : z % 2 = 0 := by omega
    rw [h0]; rfl
set_option maxHeartbeats 2000000 in
theorem Close_core (o c1 x : List Nat) (V : Nat) (w : World) (HL : Hid (o.length = 10)) (HL1 : Hid (c1.length = 10)) (HX : Hid (X10 x)) (HV : Hid (val10 x = V)) (HVB : Hid (V < 57896044618658097711785492504343953926634992332820282019728792003956564819968))
    (HR0 : Hid (∀ w, Calls Try.prog 94 #[.agg (ics o).toArray] w (Gives (.agg (ics c1).toArray) w)))
    (HR1 : Hid (∀ w, Calls Try.prog 94 #[.agg (ics c1).toArray] w (Gives (.agg (ics x).toArray) w)))
    (HR2 : Hid (∀ w, Calls Try.prog 94 #[.agg (ics x).toArray] w (Gives (.agg (ics x).toArray) w))) :
    Calls Try.prog 67 #[.agg (ics o).toArray] w (Gives (vN (V % PP)) w) := by
  have HXL : Hid (x.length = 10) := Lib.hid HX.out.1
  go_enter Try.func67, Try.ntmps67
  go_wp2_with (first | ((with_reducible show wpList _ _ _ (⟨some 1, .box 65 (.tmp 0), _, _, _, _⟩ :: _) _ _); go_must (refine wpList_box_row rfl 65 (.tmp 0) rfl (ics o).toArray rfl ?_; intro w1 h1 z1 g1; have H1 := Lib.hid h1; have Z1 := Lib.hid z1; have G1 := Lib.hid g1; clear h1 z1 g1)) | ((with_reducible show wpList _ _ _ (⟨some 2, .alloc 23, _, _, _, _⟩ :: _) _ _); go_must (refine wpList_alloc_row rfl 23 rfl (.agg (zbs 32)) zero23 ?_; intro w2 h1 z1 g1; have H2 := Lib.hid h1; have Z2 := Lib.hid z1; have G2 := Lib.hid g1; clear h1 z1 g1)) | ((with_reducible show wpList _ _ _ (⟨_, .load 65 (.tmp 1), _, _, _, _⟩ :: _) _ _); go_must (refine wpList_load_arr rfl 65 (.tmp 1) rfl w.heap.size 0 rfl (ics o) (fun i u hu => by rw [Nat.zero_add]; exact row_cells (((below_of_grownBy G2.out).block _ (by have := Z1.out; omega)).trans H1.out) i u (by simpa using hu)) _ under65 rfl (by rw [ics_len, HL.out]; exact size65) ?_)))
  refine (HR0.out _).mono ?_
  rintro e y1 ⟨rfl, hb⟩
  have B1 := Lib.hid hb
  clear hb
  go_wp2_with fail
  refine (HR1.out _).mono ?_
  rintro e y2 ⟨rfl, hb⟩
  have B2 := Lib.hid (B1.out.trans (hb.mono B1.out.size))
  clear hb B1
  go_wp2_with fail
  refine (HR2.out _).mono ?_
  rintro e y3 ⟨rfl, hb⟩
  have B3 := Lib.hid (B2.out.trans (hb.mono B2.out.size))
  clear hb B2
  go_wp2_with fail
  refine (HR2.out _).mono ?_
  rintro e y4 ⟨rfl, hb⟩
  have B4 := Lib.hid (B3.out.trans (hb.mono B3.out.size))
  clear hb B3
  have HW0 : Hid (y4.heap[w.heap.size]? = some (.cells (ics o).toArray 65 (0, 0))) := Lib.hid ((B4.out.block _ (by have := Z1.out; have := Z2.out; omega)).trans (((below_of_grownBy G2.out).block _ (by have := Z1.out; omega)).trans H1.out))
  go_wp2_with (first | ((with_reducible show wpList _ _ _ (⟨none, .store 65 (.tmp 1) (.tmp 12), _, _, _, _⟩ :: _) _ _); go_must (refine wpList_store_all rfl 65 (.tmp 1) (.tmp 12) rfl (w.heap.size) rfl (ics x).toArray rfl 65 _ HW0.out (by rw [List.size_toArray, ics_len, HXL.out]; exact size65) (by rw [List.size_toArray, List.size_toArray, ics_len, HXL.out, ics_len, HL.out]) (ics_one _) ?_; intro w4 hh hg hz; have HH4 := Lib.hid hh; have HG4 := Lib.hid hg; have HZ4 := Lib.hid hz; clear hh hg hz)) | ((with_reducible show wpList _ _ _ (⟨some 3, .alloc 23, _, _, _, _⟩ :: _) _ _); go_must (refine wpList_alloc_row rfl 23 rfl (.agg (zbs 32)) zero23 ?_; intro w5 h1 z1 g1; have H5 := Lib.hid h1; have Z5 := Lib.hid z1; have G5 := Lib.hid g1; clear h1 z1 g1)))
  have S : Hid (Cz w w4.heap.size x (List.replicate 32 0) w5) := Cz.start HXL.out Z1.out G1.out H2.out Z2.out G2.out B4.out HH4.out HG4.out HZ4.out H5.out G5.out
  have hgg := S.out.hg
  rw [show w1.heap.size = w.heap.size + 1 from Z1.out]
  clear H1 Z1 G1 H2 Z2 G2 HW0 HH4 HG4 HZ4 H5 Z5 G5 B4 HR0 HR1 HR2
  generalize w4.heap.size = g at *
  go_loopw [4, 5, 6] (fun a i _ wr => ∃ n : Nat, ∃ l : List UInt8, n ≤ 10 ∧ a = .int .i64 (off n : Nat) ∧ i = .int .i64 n ∧ leb l = V % 2 ^ off n ∧ Cz w g x l wr) (fun _ i _ _ => 10 - (intOf i).toNat)
  case atStart => exact ⟨0, _, by omega, rfl, rfl, (show leb (List.replicate 32 0) = V % 2 ^ 0 by rw [Nat.pow_zero, Nat.mod_one]; rfl), S.out⟩
  case round =>
    obtain ⟨n, l, hn, rfl, rfl, hv, hp⟩ := hrel
    have H := Lib.hid hp
    have HVL := Lib.hid hv
    clear hp S hv
    by_cases hlt : n < 10
    · have hni : (n : Int) < 10 := by omega
      have HBT := Lib.hid (bits_any n hlt)
      have HOB := off_le n hlt
      have HON : Hid (off (n + 1) = off n + b10 n) := rfl
      have HXB := Lib.hid (fun k hk => X10_bit x HX.out n k hlt hk)
      have HXW : Hid (x.getD n 0 < 67108864) := Lib.hid (Nat.lt_of_lt_of_le (HX.out.2 n hlt) (by unfold m10; split <;> decide))
      have hnb : b10 n ≤ 26 := by unfold b10; split <;> decide
      have hob : b10 n ≤ ob n := by unfold ob; split <;> omega
      rw [HV.out] at HXB
      generalize off n = st at *
      generalize b10 n = nb at *
      have hst : (st : Int) < 257 := by omega
      have hnbi : (nb : Int) < 27 := by omega
      go_wp2_with fail
      go_loopw [6] (fun j wi => ∃ m : Nat, ∃ l : List UInt8, m ≤ nb ∧ j = .int .i64 m ∧ leb l = V % 2 ^ (st + m) ∧ Cz w g x l wi) (fun j _ => nb - (intOf j).toNat)
      case atStart => exact ⟨0, l, by omega, rfl, HVL.out, H.out⟩
      case round =>
        obtain ⟨m, l, hm, rfl, hv, hp⟩ := hrel
        have H1 := Lib.hid hp
        have HVM := Lib.hid hv
        clear hp H hv HVL
        by_cases hlm : m < nb
        · have hmi : (m : Int) < nb := by omega
          have hsm : (st : Int) + (m : Int) < 256 := by omega
          have cb := H1.out.b.cell ((st + m) / 8) (by omega)
          have cx := H1.out.x.cell n (by omega)
          obtain ⟨t, ht⟩ := H1.out.b.2
          have HT := Lib.hid ht
          clear ht
          have HBL : Hid (l.length = 32) := H1.out.b.1
          go_wp2_with fail
          refine (HBT.out _).mono ?_
          rintro e x1 ⟨rfl, rfl⟩
          go_wp2_with (first | ((with_reducible show wpList _ _ _ (⟨none, .store 5 (.tmp 49) (.tmp 48), _, _, _, _⟩ :: _) _ _); go_must (refine wpList_store_one rfl 5 (.tmp 49) (.tmp 48) rfl g ((st + m) / 8) rfl .u8 _ rfl t _ HT.out size5 (by simp only [List.size_toArray, bcs_len]; have := HBL.out; omega) ?_; intro x5 hh hg hz; have HH := Lib.hid hh; have HG := Lib.hid hg; clear hh hg hz)) | fail)
          · rename (((((x[n]?.getD 0 : Nat) : Int) / 2 ^ m).tmod 2 == 1) = true) => h
            have hb1 : V / 2 ^ (st + m) % 2 = 1 := by
              rw [HXB.out m hlm, ← word_bit, h]
              rfl
            have hq := put_bit l HBL.out V (st + m) (by omega) HVM.out hb1 _ rfl
            have hh := HH.out
            have hp2 := byte_pow (st + m)
            have hq1 := hq.1
            have hq2 := hq.2
            rw [List.getD_eq_getElem?_getD] at hq1 hq2
            have e := put_int (l[(st + m) / 8]?.getD 0).toNat ((st + m) % 8) hq1
            rw [e] at hh
            generalize hc : (l[(st + m) / 8]?.getD 0).toNat + 2 ^ ((st + m) % 8) = c at *
            have e2 : (Value.int IntKind.u8 (c : Int)) = bc (UInt8.ofNat c) := by unfold bc; rw [of_byte, Nat.mod_eq_of_lt hq1]
            rw [e2, bcs_put] at hh
            exact ⟨⟨m + 1, _, by omega, by go_num, by rw [← Nat.add_assoc]; exact hq2, H1.out.set HG.out (by rw [List.length_set]; exact HBL.out) hh⟩, by simp [intOf]; omega⟩
          · rename (((((x[n]?.getD 0 : Nat) : Int) / 2 ^ m).tmod 2 == 1) = false) => h
            have hb0 : V / 2 ^ (st + m) % 2 = 0 := by
              rw [HXB.out m hlm, ← word_bit, h]
              rfl
            exact ⟨⟨m + 1, l, by omega, by go_num, by rw [HVM.out]; exact (no_bit V (st + m) hb0).symm, H1.out⟩, by simp [intOf]; omega⟩
        · obtain rfl : m = nb := by omega
          go_wp2_with fail
          refine (HBT.out _).mono ?_
          rintro e x1 ⟨rfl, rfl⟩
          go_wp2_with fail
          refine (HBT.out _).mono ?_
          rintro e x1 ⟨rfl, rfl⟩
          go_wp2_with fail
          exact ⟨⟨n + 1, l, by omega, by rw [HON.out]; go_num, by go_num, by rw [HON.out]; exact HVM.out, H1.out⟩, by first | (simp [intOf]; omega) | simp [intOf]⟩
    · obtain rfl : n = 10 := by omega
      have hV : leb l = V := by
        rw [HVL.out]
        exact Nat.mod_eq_of_lt HVB.out
      have HVE := Lib.hid hV
      have HBL : Hid (l.length = 32) := H.out.b.1
      have c0 := H.out.b.cell 0 (by omega)
      have c31 := H.out.b.cell 31 (by omega)
      obtain ⟨t, ht⟩ := H.out.b.2
      have HT := Lib.hid ht
      clear ht HVL hV
      have HLA := Lib.hid (closeA l HBL.out (by rw [HVE.out]; exact HVB.out))
      have HLB := Lib.hid (closeB l HBL.out)
      rw [HVE.out] at HLA HLB
      generalize hb0 : (l.getD 0 0).toNat = b0 at *
      generalize hb31 : (l.getD 31 0).toNat = b31 at *
      have HB0 := Lib.hid hb0
      have HB31 := Lib.hid hb31
      clear hb0 hb31
      by_cases h0 : b0 < 237
      · have h0i : (b0 : Int) < 237 := by omega
        have HR : Hid (vN (V % PP) = .agg (bcs l).toArray) := by have h := HLA.out (Or.inl h0); unfold vN; rw [← h]; exact Lib.hid rfl
        go_wp2_with (first | ((with_reducible show wpList _ _ _ (⟨_, .load 23 (.tmp 3), _, _, _, _⟩ :: _) _ _); go_must (refine wpList_load_arr rfl 23 (.tmp 3) rfl g 0 rfl (bcs l) (fun i u hu => by rw [Nat.zero_add]; exact row_cells HT.out i u (by simpa using hu)) _ under23 rfl (by rw [bcs_len, HBL.out]; exact size23) ?_)) | ((with_reducible show wpList _ _ _ (⟨none, .store 23 (.tmp 2) (.tmp 63), _, _, _, _⟩ :: _) _ _); go_must (refine wpList_store_all rfl 23 (.tmp 2) (.tmp 63) rfl (w.heap.size + 1) rfl (bcs l).toArray rfl 23 _ H.out.res (by rw [List.size_toArray, bcs_len, HBL.out]; exact size23) (by rw [List.size_toArray, bcs_len, HBL.out]; rfl) (bcs_one _) ?_; intro x5 hh hg hz; have HH := Lib.hid hh; have HG := Lib.hid hg; clear hh hg hz)) | fail)
        refine bodyPost_ret (results_cell_row rfl _ _ (w.heap.size + 1) 23 (bcs l).toArray _ _ rfl HH.out under23 rfl (by rw [List.size_toArray, bcs_len, HBL.out]; exact size23)) rfl ?_
        exact ⟨by rw [HR.out], H.out.bel.grown HG.out H.out.bel.size (fun r hr => by injection hr; omega)⟩
      · have h0i : ¬ (b0 : Int) < 237 := by omega
        have h0j : (237 : Int) ≤ (b0 : Int) := by omega
        by_cases h31 : b31 = 127
        · have h31i : ((b31 : Int) != 127) = false := by rw [h31]; rfl
          go_wp2_with fail
          go_loopw [7] (fun j wi => ∃ m : Nat, m ≤ 31 ∧ j = .int .i64 m ∧ 0 < m ∧ (∀ i, 0 < i → i < m → (l.getD i 0).toNat = 255) ∧ Cz w g x l wi) (fun j _ => 31 - (intOf j).toNat)
          case atStart => exact ⟨1, by omega, rfl, by omega, fun i h0 h1 => absurd h1 (by omega), H.out⟩
          case round =>
            obtain ⟨m, hm, rfl, hm0, hall, hp⟩ := hrel
            have H1 := Lib.hid hp
            have HAll := Lib.hid hall
            obtain ⟨t2, ht2⟩ := H1.out.b.2
            have HT := Lib.hid ht2
            clear hp H hall c0 c31 ht2
            by_cases hlm : m < 31
            · have hmi : (m : Int) < 31 := by omega
              have cm := H1.out.b.cell m (by omega)
              generalize hbm : (l.getD m 0).toNat = bm at cm
              have HBM := Lib.hid hbm
              clear hbm
              by_cases h255 : bm = 255
              · have hi : ((bm : Int) != 255) = false := by rw [h255]; rfl
                go_wp2_with fail
                exact ⟨⟨m + 1, by omega, by go_num, by omega, fun i h0 h1 => by
                  by_cases e : i = m
                  · rw [e, HBM.out, h255]
                  · exact HAll.out i h0 (by omega), H1.out⟩, by simp [intOf]; omega⟩
              · have hi : ((bm : Int) != 255) = true := by simp; omega
                have HR : Hid (vN (V % PP) = .agg (bcs l).toArray) := by have h := HLA.out (Or.inr (Or.inr ⟨m, hm0, hlm, by rw [HBM.out]; exact h255⟩)); unfold vN; rw [← h]; exact Lib.hid rfl
                go_wp2_with (first | ((with_reducible show wpList _ _ _ (⟨_, .load 23 (.tmp 3), _, _, _, _⟩ :: _) _ _); go_must (refine wpList_load_arr rfl 23 (.tmp 3) rfl g 0 rfl (bcs l) (fun i u hu => by rw [Nat.zero_add]; exact row_cells HT.out i u (by simpa using hu)) _ under23 rfl (by rw [bcs_len, HBL.out]; exact size23) ?_)) | ((with_reducible show wpList _ _ _ (⟨none, .store 23 (.tmp 2) (.tmp 72), _, _, _, _⟩ :: _) _ _); go_must (refine wpList_store_all rfl 23 (.tmp 2) (.tmp 72) rfl (w.heap.size + 1) rfl (bcs l).toArray rfl 23 _ H1.out.res (by rw [List.size_toArray, bcs_len, HBL.out]; exact size23) (by rw [List.size_toArray, bcs_len, HBL.out]; rfl) (bcs_one _) ?_; intro x5 hh hg hz; have HH := Lib.hid hh; have HG := Lib.hid hg; clear hh hg hz)) | fail)
                refine bodyPost_ret (results_cell_row rfl _ _ (w.heap.size + 1) 23 (bcs l).toArray _ _ rfl HH.out under23 rfl (by rw [List.size_toArray, bcs_len, HBL.out]; exact size23)) rfl ?_
                exact ⟨by rw [HR.out], H1.out.bel.grown HG.out H1.out.bel.size (fun r hr => by injection hr; omega)⟩
            · obtain rfl : m = 31 := by omega
              have c0 := H1.out.b.cell 0 (by omega)
              rw [HB0.out] at c0
              have hsub : IntKind.u8.wrap ((b0 : Int) - 237) = ((b0 - 237 : Nat) : Int) := by
                have hb0 : b0 < 256 := by rw [← HB0.out]; exact UInt8.toNat_lt _
                show ((b0 : Int) - 237) % 256 = _
                omega
              have HBV : Hid (Value.agg (Value.int IntKind.u8 ((b0 - 237 : Nat) : Int) :: List.replicate 31 (Value.int IntKind.u8 0)).toArray = vN (V % PP)) := by
                have h := HLB.out h0 h31 HAll.out
                have hb0 : b0 - 237 < 256 := by have := UInt8.toNat_lt (l.getD 0 0); have := HB0.out; omega
                unfold vN
                rw [h]
                show _ = Value.agg (bc (UInt8.ofNat (b0 - 237)) :: bcs (List.replicate 31 0)).toArray
                unfold bc
                rw [of_byte, Nat.mod_eq_of_lt hb0]
                exact Lib.hid rfl
              obtain ⟨L, hL⟩ : ∃ L, L = enc (V % PP) := ⟨_, rfl⟩
              have HLL : Hid (L.length = 32) := by rw [hL]; exact enc_len _
              have HLE : Hid (Value.agg (bcs L).toArray = vN (V % PP)) := by rw [hL]; rfl
              rw [← HLE.out] at HBV
              clear hL
              go_wp2_with (first | ((with_reducible show wpList _ _ _ (⟨_, .build 23 _, _, _, _, _⟩ :: _) _ _); go_must (refine wpList_exec rfl (.agg (bcs L).toArray) (exec_build1 (.tmp 75) ((b0 - 237 : Nat) : Int) _ rfl rfl HBV.out) ?_)) | ((with_reducible show wpList _ _ _ (⟨none, .store 23 (.tmp 2) (.tmp 76), _, _, _, _⟩ :: _) _ _); go_must (refine wpList_store_all rfl 23 (.tmp 2) (.tmp 76) rfl (w.heap.size + 1) rfl (bcs L).toArray rfl 23 _ H1.out.res (by rw [List.size_toArray, bcs_len, HLL.out]; exact size23) (by rw [List.size_toArray, bcs_len, HLL.out]; rfl) (bcs_one _) ?_; intro x5 hh hg hz; have HH := Lib.hid hh; have HG := Lib.hid hg; clear hh hg hz)) | fail)
              refine bodyPost_ret (results_cell_row rfl _ _ (w.heap.size + 1) 23 (bcs L).toArray _ _ rfl HH.out under23 rfl (by rw [List.size_toArray, bcs_len, HLL.out]; exact size23)) rfl ?_
              exact ⟨by rw [HLE.out], H1.out.bel.grown HG.out H1.out.bel.size (fun r hr => by injection hr; omega)⟩
        · have h31i : ((b31 : Int) != 127) = true := by simp; omega
          have HR : Hid (vN (V % PP) = .agg (bcs l).toArray) := by have h := HLA.out (Or.inr (Or.inl h31)); unfold vN; rw [← h]; exact Lib.hid rfl
          go_wp2_with (first | ((with_reducible show wpList _ _ _ (⟨_, .load 23 (.tmp 3), _, _, _, _⟩ :: _) _ _); go_must (refine wpList_load_arr rfl 23 (.tmp 3) rfl g 0 rfl (bcs l) (fun i u hu => by rw [Nat.zero_add]; exact row_cells HT.out i u (by simpa using hu)) _ under23 rfl (by rw [bcs_len, HBL.out]; exact size23) ?_)) | ((with_reducible show wpList _ _ _ (⟨none, .store 23 (.tmp 2) (.tmp 63), _, _, _, _⟩ :: _) _ _); go_must (refine wpList_store_all rfl 23 (.tmp 2) (.tmp 63) rfl (w.heap.size + 1) rfl (bcs l).toArray rfl 23 _ H.out.res (by rw [List.size_toArray, bcs_len, HBL.out]; exact size23) (by rw [List.size_toArray, bcs_len, HBL.out]; rfl) (bcs_one _) ?_; intro x5 hh hg hz; have HH := Lib.hid hh; have HG := Lib.hid hg; clear hh hg hz)) | fail)
          refine bodyPost_ret (results_cell_row rfl _ _ (w.heap.size + 1) 23 (bcs l).toArray _ _ rfl HH.out under23 rfl (by rw [List.size_toArray, bcs_len, HBL.out]; exact size23)) rfl ?_
          exact ⟨by rw [HR.out], H.out.bel.grown HG.out H.out.bel.size (fun r hr => by injection hr; omega)⟩

theorem Close_gives (o : List Nat) (h : R10 o) (w : World) : Calls Try.prog 67 #[.agg (ics o).toArray] w (Gives (vN (val10 o % PP)) w) := by
  obtain ⟨hx, h2⟩ := cry4 o h
  have l1 : (cry o 10).length = 10 := (cry_len _ _).trans h.1
  have hs : ∀ z : List Nat, X10 z → ∀ i, i < 10 → z.getD i 0 < 4611686018427387904 := fun z hz i hi => by
    have := hz.2 i hi
    have : m10 i ≤ 67108864 := by unfold m10; split <;> decide
    omega
  have e : cry (cry (cry o 10) 10) 10 = cry (cry o 10) 10 := cry_id _ hx 10 (Nat.le_refl _)
  have k := Close_core o (cry o 10) (cry (cry o 10) 10) _ w (Lib.hid h.1) (Lib.hid l1) (Lib.hid hx) (Lib.hid rfl) (Lib.hid (X10_val _ hx))
    (Lib.hid fun w => carry_any o h.1 (fun i hi => by have := (h.2 i hi).1; omega) w)
    (Lib.hid fun w => carry_any _ l1 (fun i hi => ?_) w)
    (Lib.hid fun w => by
      have q := carry_any (cry (cry o 10) 10) hx.1 (hs _ hx) w
      rw [e] at q
      exact q)
  · rw [cry_res _ l1, cry_res _ h.1] at k
    exact k
  · obtain ⟨k1, _, _, k4⟩ := cry_bnd o h.1 67109889 5 (fun i hi => by have := (h.2 i hi).1; omega) (by decide) 10 (Nat.le_refl _)
    by_cases h0 : i = 0
    · subst h0
      have := k4 rfl
      omega
    · have := k1 i hi (by omega)
      have : m10 i ≤ 67108864 := by unfold m10; split <;> decide
      omega
end Go.Proofs.Ytgdimnbdnepbgaa
/- The reference's Rest and Canon. No statement is proved here. -/
namespace Go.Proofs.Ytgdimnbdnepbgaa
open Go.RowKit
set_option linter.unusedVariables false
set_option maxRecDepth 40000
set_option linter.unusedSimpArgs false

set_option maxHeartbeats 400000 in
theorem rRest_core (a r : Nat) (z : List Nat) (w : World) (HO : Hid (∀ w, Calls Try.prog 68 #[vN a] w (Gives (.agg (ics z).toArray) w))) (HC : Hid (∀ w, Calls Try.prog 67 #[.agg (ics z).toArray] w (Gives (vN r) w))) :
    Calls Try.prog 14 #[vN a] w (Gives (vN r) w) := by
  go_enter Try.func14, Try.ntmps14
  go_wp2_with (first | ((with_reducible show wpList _ _ _ (⟨some 1, .box 23 (.tmp 0), _, _, _, _⟩ :: _) _ _); go_must (refine wpList_box_row rfl 23 (.tmp 0) rfl (bcs (enc a)).toArray rfl ?_; intro w1 h1 z1 g1; have H1 := Lib.hid h1; have Z1 := Lib.hid z1; have G1 := Lib.hid g1; clear h1 z1 g1)) | ((with_reducible show wpList _ _ _ (⟨some 2, .alloc 23, _, _, _, _⟩ :: _) _ _); go_must (refine wpList_alloc_row rfl 23 rfl (.agg (zbs 32)) zero23 ?_; intro w2 h1 z1 g1; have H2 := Lib.hid h1; have Z2 := Lib.hid z1; have G2 := Lib.hid g1; clear h1 z1 g1; have R : Hid (NAt w2 w.heap.size a) := NAt.grown ⟨23, H1.out⟩ G2.out (by simp))) | ((with_reducible show wpList _ _ _ (⟨_, .load 23 (.tmp 1), _, _, _, _⟩ :: _) _ _); go_must (refine wpList_exec rfl (vN a) (exec_load23 (.tmp 1) rfl (w.heap.size) a rfl R.out) ?_)))
  have HB : Hid (Below w.heap.size w w2) := (below_of_grownBy G1.out).trans ((below_of_grownBy G2.out).mono (by have := Z1.out; omega))
  have HR2 : Hid (ZAt w2 (w.heap.size + 1)) := by
    have h := H2.out
    rw [Z1.out] at h
    exact h
  rw [show w1.heap.size = w.heap.size + 1 from Z1.out]
  clear H1 Z1 G1 H2 Z2 G2 R
  refine (HO.out _).mono ?_
  rintro e x3 ⟨rfl, hb⟩
  have HR3 := Lib.hid (HR2.out.keep hb)
  have HB3 := Lib.hid (HB.out.trans (hb.mono HB.out.size))
  clear hb HB HR2 HO
  go_wp2_with fail
  refine (HC.out _).mono ?_
  rintro e x4 ⟨rfl, hb⟩
  have HRow : Hid (x4.heap[w.heap.size + 1]? = some (.cells (zbs 32) 23 (0, 0))) := HR3.out.keep hb
  have HBel := Lib.hid (HB3.out.trans (hb.mono HB3.out.size))
  clear hb HB3 HR3 HC
  go_wp2_with ((with_reducible show wpList _ _ _ (⟨none, .store 23 (.tmp 2) (.tmp 5), _, _, _, _⟩ :: _) _ _); go_must (refine wpList_store_all rfl 23 (.tmp 2) (.tmp 5) rfl (w.heap.size + 1) rfl (bcs (enc r)).toArray rfl 23 _ HRow.out (by rw [List.size_toArray, bcs_enc_len]; exact size23) (by rw [List.size_toArray, bcs_enc_len]; rfl) (bcs_one _) ?_; intro x5 hh hg hz; have HH := Lib.hid hh; have HG := Lib.hid hg; clear hh hg hz))
  refine bodyPost_ret (results_cell_row rfl _ _ (w.heap.size + 1) 23 (bcs (enc r)).toArray _ _ rfl HH.out under23 rfl (by rw [List.size_toArray, bcs_enc_len]; exact size23)) rfl ?_
  exact ⟨rfl, HBel.out.grown HG.out HBel.out.size (fun r hr => by injection hr; omega)⟩

set_option maxHeartbeats 400000 in
theorem rCanon_core (a r : Nat) (b : Bool) (w : World) (H11 : Hid (∀ w, Calls Try.prog 14 #[vN a] w (Gives (vN r) w))) (HE : Hid (∀ w, (Op.equalIn 10000 23 (vN r) (vN a)).run Try.prog w = .ok b w)) :
    Calls Try.prog 16 #[vN a] w (Gives (.bool b) w) := by
  go_enter Try.func16, Try.ntmps16
  go_wp2_with ((with_reducible show wpList _ _ _ (⟨some 1, .box 23 (.tmp 0), _, _, _, _⟩ :: _) _ _); go_must (refine wpList_box_row rfl 23 (.tmp 0) rfl (bcs (enc a)).toArray rfl ?_; intro w1 h1 z1 g1; have H1 := Lib.hid h1; have Z1 := Lib.hid z1; have G1 := Lib.hid g1; clear h1 z1 g1))
  have R : Hid (NAt w1 w.heap.size a) := ⟨23, H1.out⟩
  have HB : Hid (Below w.heap.size w w1) := below_of_grownBy G1.out
  clear H1 Z1 G1
  refine region_wq (by kernel_rfl) (by kernel_rfl) ?_
  refine wq_load rfl (.tmp 1) rfl (w.heap.size) a rfl R.out ?_
  simp only [Act.put, List.setIfInBounds_toArray, List.set_cons_zero, List.set_cons_succ]
  refine wq_call rfl 14 [.tmp 3] #[23] rfl [vN a] rfl (CG14 _) (vN r) H11.out ?_
  simp only [Act.put, List.setIfInBounds_toArray, List.set_cons_zero, List.set_cons_succ]
  refine wq_load rfl (.tmp 1) rfl (w.heap.size) a rfl R.out ?_
  simp only [Act.put, List.setIfInBounds_toArray, List.set_cons_zero, List.set_cons_succ]
  refine wq_eq rfl (.tmp 4) (.tmp 5) rfl r a rfl rfl b HE.out ?_
  simp only [Act.put, List.setIfInBounds_toArray, List.set_cons_zero, List.set_cons_succ]
  refine wq_assign rfl (.tmp 6) rfl (.bool b) rfl ?_
  simp only [Act.put, List.setIfInBounds_toArray, List.set_cons_zero, List.set_cons_succ]
  refine wq_nil ?_
  intro w2 hb
  have HB2 : Hid (Below w.heap.size w w2) := HB.out.trans (hb.mono HB.out.size)
  clear hb HB
  go_wp2
  go_ret
  exact ⟨rfl, HB2.out⟩

theorem rOpen (a : Nat) (ha : a < TT) : ∃ z, R10 z ∧ val10 z % PP = a % PP ∧ ∀ w, Calls Try.prog 68 #[vN a] w (Gives (.agg (ics z).toArray) w) := by
  obtain ⟨z, h1, h2, h3⟩ := Open_gives (enc a) (enc_len a)
  rw [nv_enc a ha] at h2
  exact ⟨z, h1, h2, h3⟩
theorem rRest_any (a : Nat) (ha : a < TT) (w : World) : Calls Try.prog 14 #[vN a] w (Gives (vN (a % PP)) w) := by
  obtain ⟨z, h1, h2, h3⟩ := rOpen a ha
  rw [← h2]
  exact rRest_core a _ z w (Lib.hid h3) (Lib.hid fun w => Close_gives z h1 w)
theorem rCanon_any (a : Nat) (ha : a < TT) (w : World) : Calls Try.prog 16 #[vN a] w (Gives (.bool (decide (a = a % PP))) w) := by
  have h := rCanon_core a (a % PP) _ w (Lib.hid fun w => rRest_any a ha w) (Lib.hid fun w => eqN _ a (modT a) ha w)
  rw [show decide (a % PP = a) = decide (a = a % PP) from by simp [eq_comm]] at h
  exact h
end Go.Proofs.Ytgdimnbdnepbgaa
/- The reference's Of and shifted. No statement is proved here. -/
namespace Go.Proofs.Ytgdimnbdnepbgaa
open Go.RowKit
set_option linter.unusedVariables false
set_option maxRecDepth 40000
set_option linter.unusedSimpArgs false

/-- The memory of Of and shifted. -/
structure Sz (w : World) (l : List UInt8) (w' : World) : Prop where
  res : w'.heap[w.heap.size]? = some (.cells (zbs 32) 23 (0, 0))
  b : BAt w' (w.heap.size + 1) l
  bel : Below w.heap.size w w'
theorem Sz.set {w : World} {l l' : List UInt8} {w' w'' : World} {t : TypeId} (h : Sz w l w') (hg : w'.grownBy w'' (some (w.heap.size + 1))) (hl : l'.length = 32) (hh : w''.heap[w.heap.size + 1]? = some (.cells (bcs l').toArray t (0, 0))) : Sz w l' w'' :=
  ⟨(hg.block _ (Array.getElem?_eq_some_iff.1 h.res).1 (by simp)).trans h.res, ⟨hl, t, hh⟩, h.bel.grown hg h.bel.size (fun r hr => by injection hr; omega)⟩
theorem Sz.start {w w1 w2 : World} (h1 : w1.heap[w.heap.size]? = some (.cells (zbs 32) 23 (0, 0))) (z1 : w1.heap.size = w.heap.size + 1) (g1 : w.grownBy w1 none)
    (h2 : w2.heap[w1.heap.size]? = some (.cells (zbs 32) 23 (0, 0))) (g2 : w1.grownBy w2 none) : Sz w (List.replicate 32 0) w2 := by
  have b1 := below_of_grownBy g1
  have b2 := below_of_grownBy g2
  rw [z1] at h2 b2
  exact ⟨(b2.block _ (by omega)).trans h1, ⟨rfl, 23, h2⟩, b1.trans (b2.mono (by omega))⟩
theorem bytes_eq (l : List UInt8) (u : Nat) (hu : u < TT) (hl : l.length = 32) (h : ∀ j, j < 32 → (l.getD j 0).toNat = u / 256 ^ j % 256) : l = enc u := by
  have hv : leb (enc u) = u := by rw [← nv_leb _ (enc_len u)]; exact nv_enc u hu
  apply List.ext_getElem
  · rw [hl, enc_len]
  · intro i h1 h2
    have e1 : l.getD i 0 = l[i] := by rw [List.getD_eq_getElem?_getD, List.getElem?_eq_getElem h1]; rfl
    have e2 : (enc u).getD i 0 = (enc u)[i] := by rw [List.getD_eq_getElem?_getD, List.getElem?_eq_getElem h2]; rfl
    apply UInt8.toNat_inj.1
    rw [← e1, ← e2, h i (by omega), ← leb_byte, hv]
theorem enc_byte (u : Nat) (hu : u < TT) (j : Nat) : ((enc u).getD j 0).toNat = u / 256 ^ j % 256 := by
  rw [← leb_byte, ← nv_leb _ (enc_len u), nv_enc u hu]
theorem getD_set_eq8 (l : List UInt8) (i : Nat) (b : UInt8) (h : i < l.length) : (l.set i b).getD i 0 = b := by
  rw [List.getD_eq_getElem?_getD, List.getElem?_set_self h]; rfl
theorem getD_set_ne8 (l : List UInt8) (i j : Nat) (b : UInt8) (h : i ≠ j) : (l.set i b).getD j 0 = l.getD j 0 := by
  rw [List.getD_eq_getElem?_getD, List.getElem?_set_ne h, ← List.getD_eq_getElem?_getD]

set_option maxHeartbeats 2000000 in
theorem rOf_core (x : Nat) (hx : x < 18446744073709551616) (w : World) : Calls Try.prog 18 #[.int .u64 x] w (Gives (vN x) w) := by
  have HX := Lib.hid hx
  clear hx
  go_enter Try.func18, Try.ntmps18
  go_wp2_with (first | ((with_reducible show wpList _ _ _ (⟨some 2, .alloc 23, _, _, _, _⟩ :: _) _ _); go_must (refine wpList_alloc_row rfl 23 rfl (.agg (zbs 32)) zero23 ?_; intro w1 h1 z1 g1; have H1 := Lib.hid h1; have Z1 := Lib.hid z1; have G1 := Lib.hid g1; clear h1 z1 g1)) | ((with_reducible show wpList _ _ _ (⟨some 3, .alloc 23, _, _, _, _⟩ :: _) _ _); go_must (refine wpList_alloc_row rfl 23 rfl (.agg (zbs 32)) zero23 ?_; intro w2 h1 z1 g1; have H2 := Lib.hid h1; have G2 := Lib.hid g1; clear h1 z1 g1)))
  have S : Hid (Sz w (List.replicate 32 0) w2) := Sz.start H1.out Z1.out G1.out H2.out G2.out
  rw [show w1.heap.size = w.heap.size + 1 from Z1.out]
  clear H1 Z1 G1 H2 G2
  go_loopw [4] (fun i wr => ∃ n : Nat, ∃ l : List UInt8, n ≤ 8 ∧ i = .int .i64 n ∧ leb l = x % 256 ^ n ∧ Sz w l wr) (fun i _ => 8 - (intOf i).toNat)
  case atStart => exact ⟨0, _, by omega, rfl, (show leb (List.replicate 32 0) = x % 256 ^ 0 by rw [Nat.pow_zero, Nat.mod_one]; rfl), S.out⟩
  case round =>
    obtain ⟨n, l, hn, rfl, hv, hp⟩ := hrel
    have H := Lib.hid hp
    have HVL := Lib.hid hv
    clear hp S hv
    have HBL : Hid (l.length = 32) := H.out.b.1
    obtain ⟨t, ht⟩ := H.out.b.2
    have HT := Lib.hid ht
    clear ht
    by_cases hlt : n < 8
    · have hni : (n : Int) < 8 := by omega
      go_wp2_with (first | ((with_reducible show wpList _ _ _ (⟨none, .store 5 (.tmp 16) (.tmp 15), _, _, _, _⟩ :: _) _ _); go_must (refine wpList_store_one rfl 5 (.tmp 16) (.tmp 15) rfl (w.heap.size + 1) n rfl .u8 _ rfl t _ HT.out size5 (by simp only [List.size_toArray, bcs_len]; have := HBL.out; omega) ?_; intro x5 hh hg hz; have HH := Lib.hid hh; have HG := Lib.hid hg; clear hh hg hz)) | fail)
      have hh := HH.out
      have h0 : (l.getD n 0).toNat = 0 := by
        rw [← leb_byte, HVL.out, Nat.div_eq_of_lt (Nat.mod_lt _ (Nat.pow_pos (by decide)))]
      have hs := leb_set l n (UInt8.ofNat (x / 256 ^ n)) (by have := HBL.out; omega)
      rw [h0, Nat.mul_zero, Nat.add_zero, of_byte, HVL.out, ← Nat.mod_pow_succ] at hs
      have e : ((x : Int) / 2 ^ (8 * n)) % 256 = ((x / 256 ^ n % 256 : Nat) : Int) := by
        rw [show ((2 : Int) ^ (8 * n)) = ((256 ^ n : Nat) : Int) from by rw [Int.pow_mul]; simp]
        simp
      have e2 : Value.int IntKind.u8 (((x : Int) / 2 ^ (8 * n)) % 256) = bc (UInt8.ofNat (x / 256 ^ n)) := by rw [e]; unfold bc; rw [of_byte]
      rw [e2, bcs_put] at hh
      exact ⟨⟨n + 1, _, by omega, by go_num, hs, H.out.set HG.out (by rw [List.length_set]; exact HBL.out) hh⟩, by simp [intOf]; omega⟩
    · obtain rfl : n = 8 := by omega
      have hl : l = enc x := by
        rw [leb_inj l HBL.out, HVL.out, Nat.mod_eq_of_lt HX.out]
      have HL := Lib.hid hl
      clear HVL hl
      go_wp2_with (first | ((with_reducible show wpList _ _ _ (⟨_, .load 23 (.tmp 3), _, _, _, _⟩ :: _) _ _); go_must (refine wpList_load_arr rfl 23 (.tmp 3) rfl (w.heap.size + 1) 0 rfl (bcs l) (fun i u hu => by rw [Nat.zero_add]; exact row_cells HT.out i u (by simpa using hu)) _ under23 rfl (by rw [bcs_len, HBL.out]; exact size23) ?_)) | ((with_reducible show wpList _ _ _ (⟨none, .store 23 (.tmp 2) (.tmp 17), _, _, _, _⟩ :: _) _ _); go_must (refine wpList_store_all rfl 23 (.tmp 2) (.tmp 17) rfl (w.heap.size) rfl (bcs l).toArray rfl 23 _ H.out.res (by rw [List.size_toArray, bcs_len, HBL.out]; exact size23) (by rw [List.size_toArray, bcs_len, HBL.out]; rfl) (bcs_one _) ?_; intro x5 hh hg hz; have HH := Lib.hid hh; have HG := Lib.hid hg; clear hh hg hz)) | fail)
      refine bodyPost_ret (results_cell_row rfl _ _ (w.heap.size) 23 (bcs l).toArray _ _ rfl HH.out under23 rfl (by rw [List.size_toArray, bcs_len, HBL.out]; exact size23)) rfl ?_
      exact ⟨by rw [HL.out]; rfl, H.out.bel.grown HG.out H.out.bel.size (fun r hr => by injection hr; omega)⟩
end Go.Proofs.Ytgdimnbdnepbgaa
