/- Several texts in one. No statement is proved here. -/
import Derived.Test.YtgdimnbdnepbgaaK5
import Derived.Test.YtgdimnbdnepbgaaK4
/- Bytes of a number, one bit after the other: for the reference's Close. No statement is proved here. -/
namespace Go.Proofs.Ytgdimnbdnepbgaa
open Go.RowKit
set_option linter.unusedVariables false
set_option maxRecDepth 40000
set_option linter.unusedSimpArgs false

theorem leb_lt : ∀ l : List UInt8, leb l < 256 ^ l.length
  | [] => by simp [leb]
  | b :: t => by
    have ih := leb_lt t
    have hb := UInt8.toNat_lt b
    simp only [leb, List.length_cons, Nat.pow_succ]
    omega
theorem leb_byte : ∀ (l : List UInt8) (j : Nat), leb l / 256 ^ j % 256 = (l.getD j 0).toNat
  | [], j => by simp [leb]
  | b :: t, 0 => by
    have hb := UInt8.toNat_lt b
    simp only [leb, Nat.pow_zero, Nat.div_one, List.getD_cons_zero]
    omega
  | b :: t, j + 1 => by
    have ih := leb_byte t j
    have hb := UInt8.toNat_lt b
    rw [List.getD_cons_succ, ← ih, Nat.pow_succ, Nat.mul_comm, ← Nat.div_div_eq_div_mul]
    simp only [leb]
    rw [show (b.toNat + 256 * leb t) / 256 = leb t from by omega]
theorem leb_set : ∀ (l : List UInt8) (j : Nat) (b : UInt8), j < l.length → leb (l.set j b) + 256 ^ j * (l.getD j 0).toNat = leb l + 256 ^ j * b.toNat
  | [], j, b, h => absurd h (by simp)
  | c :: t, 0, b, h => by
    simp only [leb, List.set_cons_zero, List.getD_cons_zero, Nat.pow_zero]
    omega
  | c :: t, j + 1, b, h => by
    have ih := leb_set t j b (by simpa using h)
    simp only [leb, List.set_cons_succ, List.getD_cons_succ]
    rw [Nat.pow_succ, Nat.mul_comm (256 ^ j) 256, Nat.mul_assoc, Nat.mul_assoc]
    omega
theorem leb_inj (l : List UInt8) (h : l.length = 32) : l = enc (leb l) := by
  rw [← nv_leb l h, enc_nv l h]
/-- The byte that holds bit m of a number below 2^m has room for it. -/
theorem room (l : List UInt8) (m : Nat) (h : leb l < 2 ^ m) : (l.getD (m / 8) 0).toNat < 2 ^ (m % 8) := by
  rw [← leb_byte l (m / 8)]
  have e : (256 : Nat) ^ (m / 8) = 2 ^ (8 * (m / 8)) := by rw [Nat.pow_mul]
  rw [e]
  have hm : 2 ^ m = 2 ^ (m % 8) * 2 ^ (8 * (m / 8)) := by rw [← Nat.pow_add]; congr 1; omega
  rw [hm] at h
  have h2 : leb l / 2 ^ (8 * (m / 8)) < 2 ^ (m % 8) := by rw [Nat.div_lt_iff_lt_mul (Nat.two_pow_pos _)]; exact h
  exact Nat.lt_of_le_of_lt (Nat.mod_le _ _) h2
theorem byte_pow (m : Nat) : 2 ^ (m % 8) < 256 := Nat.lt_of_le_of_lt (Nat.pow_le_pow_right (by decide) (show m % 8 ≤ 7 by omega)) (by decide)
theorem put_bit (l : List UInt8) (hl : l.length = 32) (V m : Nat) (hm : m < 256) (h : leb l = V % 2 ^ m) (hb : V / 2 ^ m % 2 = 1) (c : Nat) (hc : c = (l.getD (m / 8) 0).toNat + 2 ^ (m % 8)) :
    c < 256 ∧ leb (l.set (m / 8) (UInt8.ofNat c)) = V % 2 ^ (m + 1) := by
  have hr := room l m (by rw [h]; exact Nat.mod_lt _ (Nat.two_pow_pos _))
  have h7 : 2 ^ (m % 8) ≤ 128 := Nat.pow_le_pow_right (by decide) (show m % 8 ≤ 7 by omega)
  have hc2 : c < 256 := by omega
  refine ⟨hc2, ?_⟩
  have hs := leb_set l (m / 8) (UInt8.ofNat c) (by omega)
  rw [of_byte, Nat.mod_eq_of_lt hc2] at hs
  have e : (256 : Nat) ^ (m / 8) = 2 ^ (8 * (m / 8)) := by rw [Nat.pow_mul]
  have hm2 : 2 ^ m = 2 ^ (8 * (m / 8)) * 2 ^ (m % 8) := by rw [← Nat.pow_add]; congr 1; omega
  subst hc
  rw [Nat.mul_add, ← Nat.add_assoc, e, ← hm2] at hs
  rw [Nat.mod_pow_succ, hb, Nat.mul_one, ← h]
  omega
theorem no_bit (V m : Nat) (hb : V / 2 ^ m % 2 = 0) : V % 2 ^ (m + 1) = V % 2 ^ m := by
  rw [Nat.mod_pow_succ, hb, Nat.mul_zero, Nat.add_zero]
/-- A word in its bits is its part of the number. -/
theorem X10_digit (o : List Nat) (h : X10 o) (n : Nat) (hn : n < 10) : val10 o / 2 ^ off n % 2 ^ b10 n = o.getD n 0 := by
  obtain ⟨hl, hw⟩ := h
  obtain ⟨a0, a1, a2, a3, a4, a5, a6, a7, a8, a9, rfl⟩ := ten o hl
  have w0 : a0 < 67108864 := hw 0 (by omega)
  have w1 : a1 < 33554432 := hw 1 (by omega)
  have w2 : a2 < 67108864 := hw 2 (by omega)
  have w3 : a3 < 33554432 := hw 3 (by omega)
  have w4 : a4 < 67108864 := hw 4 (by omega)
  have w5 : a5 < 33554432 := hw 5 (by omega)
  have w6 : a6 < 67108864 := hw 6 (by omega)
  have w7 : a7 < 33554432 := hw 7 (by omega)
  have w8 : a8 < 67108864 := hw 8 (by omega)
  have w9 : a9 < 33554432 := hw 9 (by omega)
  clear hw hl
  have hn10 : n = 0 ∨ n = 1 ∨ n = 2 ∨ n = 3 ∨ n = 4 ∨ n = 5 ∨ n = 6 ∨ n = 7 ∨ n = 8 ∨ n = 9 := by omega
  simp only [val10]
  rcases hn10 with rfl | rfl | rfl | rfl | rfl | rfl | rfl | rfl | rfl | rfl
  · show _ / 1 % 67108864 = a0; omega
  · show _ / 67108864 % 33554432 = a1; omega
  · show _ / 2251799813685248 % 67108864 = a2; omega
  · show _ / 151115727451828646838272 % 33554432 = a3; omega
  · show _ / 5070602400912917605986812821504 % 67108864 = a4; omega
  · show _ / 340282366920938463463374607431768211456 % 33554432 = a5; omega
  · show _ / 11417981541647679048466287755595961091061972992 % 67108864 = a6; omega
  · show _ / 766247770432944429179173513575154591809369561091801088 % 33554432 = a7; omega
  · show _ / 25711008708143844408671393477458601640355247900524685364822016 % 67108864 = a8; omega
  · show _ / 1725436586697640946858688965569256363112777243042596638790631055949824 % 33554432 = a9; omega
theorem X10_bit (o : List Nat) (h : X10 o) (n k : Nat) (hn : n < 10) (hk : k < b10 n) : val10 o / 2 ^ (off n + k) % 2 = o.getD n 0 / 2 ^ k % 2 := by
  rw [← X10_digit o h n hn, Nat.pow_add, ← Nat.div_div_eq_div_mul]
  generalize val10 o / 2 ^ off n = x
  obtain ⟨j, hj⟩ : ∃ j, b10 n = k + (j + 1) := ⟨b10 n - k - 1, by omega⟩
  rw [hj, Nat.pow_add, Nat.mod_mul, Nat.add_mul_div_left _ _ (Nat.two_pow_pos k), Nat.div_eq_of_lt (Nat.mod_lt _ (Nat.two_pow_pos k)), Nat.zero_add, Nat.pow_succ, Nat.mul_comm (2 ^ j) 2, Nat.mod_mul_right_mod]

theorem tops : ∀ r, r < 19 → enc (PP + r) = UInt8.ofNat (237 + r) :: (List.replicate 30 255 ++ [127]) := by decide +kernel
theorem top_of (l : List UInt8) (hl : l.length = 32) (hV : leb l < 57896044618658097711785492504343953926634992332820282019728792003956564819968) (h : ¬ leb l < PP) : ∃ r, r < 19 ∧ leb l = PP + r ∧ l = UInt8.ofNat (237 + r) :: (List.replicate 30 255 ++ [127]) := by
  unfold PP at h
  refine ⟨leb l - PP, by unfold PP; omega, by unfold PP; omega, ?_⟩
  have e := leb_inj l hl
  rw [← tops (leb l - PP) (by unfold PP; omega), show PP + (leb l - PP) = leb l from by unfold PP; omega, ← e]
theorem closeA (l : List UInt8) (hl : l.length = 32) (hV : leb l < 57896044618658097711785492504343953926634992332820282019728792003956564819968)
    (h : (l.getD 0 0).toNat < 237 ∨ (l.getD 31 0).toNat ≠ 127 ∨ ∃ i, 0 < i ∧ i < 31 ∧ (l.getD i 0).toNat ≠ 255) : l = enc (leb l % PP) := by
  by_cases hp : leb l < PP
  · rw [Nat.mod_eq_of_lt hp]; exact leb_inj l hl
  · obtain ⟨r, hr, _, e⟩ := top_of l hl hV hp
    rw [e] at h
    rcases h with h | h | ⟨i, h0, h1, h⟩
    · rw [List.getD_cons_zero, of_byte] at h
      omega
    · exact absurd rfl h
    · obtain ⟨j, rfl⟩ : ∃ j, i = j + 1 := ⟨i - 1, by omega⟩
      rw [List.getD_cons_succ, List.getD_eq_getElem?_getD, List.getElem?_append_left (by rw [List.length_replicate]; omega), List.getElem?_replicate, if_pos (by omega)] at h
      exact absurd rfl h
theorem closeB (l : List UInt8) (hl : l.length = 32) (h0 : ¬ (l.getD 0 0).toNat < 237) (h31 : (l.getD 31 0).toNat = 127) (hi : ∀ i, 0 < i → i < 31 → (l.getD i 0).toNat = 255) :
    enc (leb l % PP) = UInt8.ofNat ((l.getD 0 0).toNat - 237) :: List.replicate 31 0 := by
  have hb := UInt8.toNat_lt (l.getD 0 0)
  obtain ⟨r, hr⟩ : ∃ r, (l.getD 0 0).toNat = 237 + r := ⟨(l.getD 0 0).toNat - 237, by omega⟩
  have hr19 : r < 19 := by omega
  have e : l = enc (PP + r) := by
    rw [tops r hr19]
    apply List.ext_getElem
    · rw [hl]; rfl
    · intro i h1 h2
      have hg : (l.getD i 0) = l[i] := by rw [List.getD_eq_getElem?_getD, List.getElem?_eq_getElem h1]; rfl
      rw [← hg]
      apply UInt8.toNat_inj.1
      by_cases e0 : i = 0
      · subst e0
        rw [hr, List.getElem_cons_zero, of_byte]
        omega
      · by_cases e31 : i = 31
        · subst e31
          rw [h31]
          rfl
        · rw [hi i (by omega) (by omega)]
          obtain ⟨j, rfl⟩ : ∃ j, i = j + 1 := ⟨i - 1, by omega⟩
          rw [List.getElem_cons_succ, List.getElem_append_left (by rw [List.length_replicate]; omega), List.getElem_replicate]
          rfl
  have hv : leb l = PP + r := by rw [← nv_leb l hl, e, nv_enc _ (by unfold PP; omega)]
  rw [hv, Nat.add_mod_left, Nat.mod_eq_of_lt (by unfold PP; omega), hr, Nat.add_sub_cancel_left]
  have : ∀ r, r < 19 → enc r = UInt8.ofNat r :: List.replicate 31 0 := by decide +kernel
  exact this r hr19
end Go.Proofs.Ytgdimnbdnepbgaa
/- The reference's Close. No statement is proved here. -/
namespace Go.Proofs.Ytgdimnbdnepbgaa
open Go.RowKit
set_option linter.unusedVariables false
set_option maxRecDepth 40000
set_option linter.unusedSimpArgs false

/-- The memory of Close. -/
structure Cz (w : World) (g : Nat) (x : List Nat) (l : List UInt8) (w' : World) : Prop where
  hg : w.heap.size + 2 ≤ g
  x : IAt w' w.heap.size x
  res : w'.heap[w.heap.size + 1]? = some (.cells (zbs 32) 23 (0, 0))
  b : BAt w' g l
  bel : Below w.heap.size w w'
theorem Cz.set {w : World} {g : Nat} {x : List Nat} {l l' : List UInt8} {w' w'' : World} {t : TypeId} (h : Cz w g x l w') (hg : w'.grownBy w'' (some g)) (hl : l'.length = 32) (hh : w''.heap[g]? = some (.cells (bcs l').toArray t (0, 0))) : Cz w g x l' w'' :=
  ⟨h.hg, h.x.grown hg (by have := h.hg; simp; omega), (hg.block _ (Array.getElem?_eq_some_iff.1 h.res).1 (by have := h.hg; simp; omega)).trans h.res, ⟨hl, t, hh⟩, h.bel.grown hg h.bel.size (fun r hr => by have := h.hg; injection hr; omega)⟩
theorem Cz.start {w : World} {x : List Nat} {w1 w2 w3 w4 w5 : World} (hx : x.length = 10)
    (z1 : w1.heap.size = w.heap.size + 1) (g1 : w.grownBy w1 none)
    (h2 : w2.heap[w1.heap.size]? = some (.cells (zbs 32) 23 (0, 0))) (z2 : w2.heap.size = w1.heap.size + 1) (g2 : w1.grownBy w2 none)
    (b3 : Below w2.heap.size w2 w3)
    (h4 : w4.heap[w.heap.size]? = some (.cells (ics x).toArray 65 (0, 0))) (g4 : w3.grownBy w4 (some w.heap.size)) (z4 : w4.heap.size = w3.heap.size)
    (h5 : w5.heap[w4.heap.size]? = some (.cells (zbs 32) 23 (0, 0))) (g5 : w4.grownBy w5 none) : Cz w w4.heap.size x (List.replicate 32 0) w5 := by
  have b1 := below_of_grownBy g1
  have b2 := below_of_grownBy g2
  have b5 := below_of_grownBy g5
  rw [z1] at h2 b2 z2
  have b3s := b3.size
  rw [z2] at b3 b3s
  have k4 : Below w.heap.size w3 w4 := (Below.refl _ _).grown g4 (by omega) (fun r hr => by injection hr; omega)
  refine ⟨by omega, ⟨hx, 65, ?_⟩, ?_, ⟨rfl, 23, h5⟩, ?_⟩
  · exact (b5.block _ (by omega)).trans h4
  · exact (b5.block _ (by omega)).trans ((g4.block _ (by omega) (by simp)).trans ((b3.block _ (by omega)).trans h2))
  · exact b1.trans ((b2.mono (by omega)).trans ((b3.mono (by omega)).trans (k4.trans (b5.mono (by omega)))))

theorem bcs_put (l : List UInt8) (j : Nat) (b : UInt8) : (bcs l).toArray.setIfInBounds j (bc b) = (bcs (l.set j b)).toArray := by
  apply Array.toList_inj.1
  rw [Array.toList_setIfInBounds]
  simp [bcs, List.map_set]
theorem put_int (a k : Nat) (h : a + 2 ^ k < 256) : ((a : Int) + 2 ^ k % 256) % 256 = ((a + 2 ^ k : Nat) : Int) := by
  rw [show ((2 : Int) ^ k) = ((2 ^ k : Nat) : Int) from by simp]
  generalize 2 ^ k = p at *
  omega
theorem run_build1 (n : Int) (w : World) : (Instr.build 23 #[(0, .int .u8 n)]).run Try.prog w = .ok (.agg (.int .u8 n :: List.replicate 31 (.int .u8 0)).toArray) w := by kernel_rfl
theorem exec_build1 {o : Oper} {a : Act} {w : World} (x : Operand) (n : Int) (v : Value) (ho : o.op = .build 23 #[(0, x)]) (hx : a.eval x = .int .u8 n) (hv : .agg (.int .u8 n :: List.replicate 31 (.int .u8 0)).toArray = v) : (execOp a.eval o).run Try.prog w = .ok (.value v) w := by
  unfold execOp
  simp only [ho, List.map_toArray, List.map_cons, List.map_nil, Sem.run_bind, Sem.run_pure, hx]
  rw [run_build1 n w, hv]
  rfl
theorem word_bit (x : List Nat) (n m : Nat) : (if (((((x[n]?.getD 0 : Nat) : Int) / 2 ^ m).tmod 2 == 1)) = true then 1 else 0) = x.getD n 0 / 2 ^ m % 2 := by
  rw [List.getD_eq_getElem?_getD, show ((2 : Int) ^ m) = ((2 ^ m : Nat) : Int) from by simp, ← Int.natCast_ediv]
  generalize x[n]?.getD 0 / 2 ^ m = z
  rw [show ((z : Int)).tmod 2 = ((z % 2 : Nat) : Int) from rfl]
  by_cases h : z % 2 = 1
  · rw [h]; rfl
  · have h0 : z % 2 = 0 := by omega
    rw [h0]; rfl
set_option maxHeartbeats 2000000 in
theorem Close_core (o c1 x : List Nat) (V : Nat) (w : World) (HL : Hid (o.length = 10)) (HL1 : Hid (c1.length = 10)) (HX : Hid (X10 x)) (HV : Hid (val10 x = V)) (HVB : Hid (V < 57896044618658097711785492504343953926634992332820282019728792003956564819968))
    (HR0 : Hid (∀ w, Calls Try.prog 94 #[.agg (ics o).toArray] w (Gives (.agg (ics c1).toArray) w)))
    (HR1 : Hid (∀ w, Calls Try.prog 94 #[.agg (ics c1).toArray] w (Gives (.agg (ics x).toArray) w)))
    (HR2 : Hid (∀ w, Calls Try.prog 94 #[.agg (ics x).toArray] w (Gives (.agg (ics x).toArray) w))) :
    Calls Try.prog 67 #[.agg (ics o).toArray] w (Gives (vN (V % PP)) w) := by
  have HXL : Hid (x.length = 10) := Lib.hid HX.out.1
  go_enter Try.func67, Try.ntmps67
  go_wp2_with (first | ((with_reducible show wpList _ _ _ (⟨some 1, .box 65 (.tmp 0), _, _, _, _⟩ :: _) _ _); go_must (refine wpList_box_row rfl 65 (.tmp 0) rfl (ics o).toArray rfl ?_; intro w1 h1 z1 g1; have H1 := Lib.hid h1; have Z1 := Lib.hid z1; have G1 := Lib.hid g1; clear h1 z1 g1)) | ((with_reducible show wpList _ _ _ (⟨some 2, .alloc 23, _, _, _, _⟩ :: _) _ _); go_must (refine wpList_alloc_row rfl 23 rfl (.agg (zbs 32)) zero23 ?_; intro w2 h1 z1 g1; have H2 := Lib.hid h1; have Z2 := Lib.hid z1; have G2 := Lib.hid g1; clear h1 z1 g1)) | ((with_reducible show wpList _ _ _ (⟨_, .load 65 (.tmp 1), _, _, _, _⟩ :: _) _ _); go_must (refine wpList_load_arr rfl 65 (.tmp 1) rfl w.heap.size 0 rfl (ics o) (fun i u hu => by rw [Nat.zero_add]; exact row_cells (((below_of_grownBy G2.out).block _ (by have := Z1.out; omega)).trans H1.out) i u (by simpa using hu)) _ under65 rfl (by rw [ics_len, HL.out]; exact size65) ?_)))
  refine (HR0.out _).mono ?_
  rintro e y1 ⟨rfl, hb⟩
  have B1 := Lib.hid hb
  clear hb
  go_wp2_with fail
  refine (HR1.out _).mono ?_
  rintro e y2 ⟨rfl, hb⟩
  have B2 := Lib.hid (B1.out.trans (hb.mono B1.out.size))
  clear hb B1
  go_wp2_with fail
  refine (HR2.out _).mono ?_
  rintro e y3 ⟨rfl, hb⟩
  have B3 := Lib.hid (B2.out.trans (hb.mono B2.out.size))
  clear hb B2
  go_wp2_with fail
  refine (HR2.out _).mono ?_
  rintro e y4 ⟨rfl, hb⟩
  have B4 := Lib.hid (B3.out.trans (hb.mono B3.out.size))
  clear hb B3
  have HW0 : Hid (y4.heap[w.heap.size]? = some (.cells (ics o).toArray 65 (0, 0))) := Lib.hid ((B4.out.block _ (by have := Z1.out; have := Z2.out; omega)).trans (((below_of_grownBy G2.out).block _ (by have := Z1.out; omega)).trans H1.out))
  go_wp2_with (first | ((with_reducible show wpList _ _ _ (⟨none, .store 65 (.tmp 1) (.tmp 12), _, _, _, _⟩ :: _) _ _); go_must (refine wpList_store_all rfl 65 (.tmp 1) (.tmp 12) rfl (w.heap.size) rfl (ics x).toArray rfl 65 _ HW0.out (by rw [List.size_toArray, ics_len, HXL.out]; exact size65) (by rw [List.size_toArray, List.size_toArray, ics_len, HXL.out, ics_len, HL.out]) (ics_one _) ?_; intro w4 hh hg hz; have HH4 := Lib.hid hh; have HG4 := Lib.hid hg; have HZ4 := Lib.hid hz; clear hh hg hz)) | ((with_reducible show wpList _ _ _ (⟨some 3, .alloc 23, _, _, _, _⟩ :: _) _ _); go_must (refine wpList_alloc_row rfl 23 rfl (.agg (zbs 32)) zero23 ?_; intro w5 h1 z1 g1; have H5 := Lib.hid h1; have Z5 := Lib.hid z1; have G5 := Lib.hid g1; clear h1 z1 g1)))
  have S : Hid (Cz w w4.heap.size x (List.replicate 32 0) w5) := Cz.start HXL.out Z1.out G1.out H2.out Z2.out G2.out B4.out HH4.out HG4.out HZ4.out H5.out G5.out
  have hgg := S.out.hg
  rw [show w1.heap.size = w.heap.size + 1 from Z1.out]
  clear H1 Z1 G1 H2 Z2 G2 HW0 HH4 HG4 HZ4 H5 Z5 G5 B4 HR0 HR1 HR2
  generalize w4.heap.size = g at *
  go_loopw [4, 5, 6] (fun a i _ wr => ∃ n : Nat, ∃ l : List UInt8, n ≤ 10 ∧ a = .int .i64 (off n : Nat) ∧ i = .int .i64 n ∧ leb l = V % 2 ^ off n ∧ Cz w g x l wr) (fun _ i _ _ => 10 - (intOf i).toNat)
  case atStart => exact ⟨0, _, by omega, rfl, rfl, (show leb (List.replicate 32 0) = V % 2 ^ 0 by rw [Nat.pow_zero, Nat.mod_one]; rfl), S.out⟩
  case round =>
    obtain ⟨n, l, hn, rfl, rfl, hv, hp⟩ := hrel
    have H := Lib.hid hp
    have HVL := Lib.hid hv
    clear hp S hv
    by_cases hlt : n < 10
    · have hni : (n : Int) < 10 := by omega
      have HBT := Lib.hid (bits_any n hlt)
      have HOB := off_le n hlt
      have HON : Hid (off (n + 1) = off n + b10 n) := rfl
      have HXB := Lib.hid (fun k hk => X10_bit x HX.out n k hlt hk)
      have HXW : Hid (x.getD n 0 < 67108864) := Lib.hid (Nat.lt_of_lt_of_le (HX.out.2 n hlt) (by unfold m10; split <;> decide))
      have hnb : b10 n ≤ 26 := by unfold b10; split <;> decide
      have hob : b10 n ≤ ob n := by unfold ob; split <;> omega
      rw [HV.out] at HXB
      generalize off n = st at *
      generalize b10 n = nb at *
      have hst : (st : Int) < 257 := by omega
      have hnbi : (nb : Int) < 27 := by omega
      go_wp2_with fail
      go_loopw [6] (fun j wi => ∃ m : Nat, ∃ l : List UInt8, m ≤ nb ∧ j = .int .i64 m ∧ leb l = V % 2 ^ (st + m) ∧ Cz w g x l wi) (fun j _ => nb - (intOf j).toNat)
      case atStart => exact ⟨0, l, by omega, rfl, HVL.out, H.out⟩
      case round =>
        obtain ⟨m, l, hm, rfl, hv, hp⟩ := hrel
        have H1 := Lib.hid hp
        have HVM := Lib.hid hv
        clear hp H hv HVL
        by_cases hlm : m < nb
        · have hmi : (m : Int) < nb := by omega
          have hsm : (st : Int) + (m : Int) < 256 := by omega
          have cb := H1.out.b.cell ((st + m) / 8) (by omega)
          have cx := H1.out.x.cell n (by omega)
          obtain ⟨t, ht⟩ := H1.out.b.2
          have HT := Lib.hid ht
          clear ht
          have HBL : Hid (l.length = 32) := H1.out.b.1
          go_wp2_with fail
          refine (HBT.out _).mono ?_
          rintro e x1 ⟨rfl, rfl⟩
          go_wp2_with (first | ((with_reducible show wpList _ _ _ (⟨none, .store 5 (.tmp 49) (.tmp 48), _, _, _, _⟩ :: _) _ _); go_must (refine wpList_store_one rfl 5 (.tmp 49) (.tmp 48) rfl g ((st + m) / 8) rfl .u8 _ rfl t _ HT.out size5 (by simp only [List.size_toArray, bcs_len]; have := HBL.out; omega) ?_; intro x5 hh hg hz; have HH := Lib.hid hh; have HG := Lib.hid hg; clear hh hg hz)) | fail)
          · rename (((((x[n]?.getD 0 : Nat) : Int) / 2 ^ m).tmod 2 == 1) = true) => h
            have hb1 : V / 2 ^ (st + m) % 2 = 1 := by
              rw [HXB.out m hlm, ← word_bit, h]
              rfl
            have hq := put_bit l HBL.out V (st + m) (by omega) HVM.out hb1 _ rfl
            have hh := HH.out
            have hp2 := byte_pow (st + m)
            have hq1 := hq.1
            have hq2 := hq.2
            rw [List.getD_eq_getElem?_getD] at hq1 hq2
            have e := put_int (l[(st + m) / 8]?.getD 0).toNat ((st + m) % 8) hq1
            rw [e] at hh
            generalize hc : (l[(st + m) / 8]?.getD 0).toNat + 2 ^ ((st + m) % 8) = c at *
            have e2 : (Value.int IntKind.u8 (c : Int)) = bc (UInt8.ofNat c) := by unfold bc; rw [of_byte, Nat.mod_eq_of_lt hq1]
            rw [e2, bcs_put] at hh
            exact ⟨⟨m + 1, _, by omega, by go_num, by rw [← Nat.add_assoc]; exact hq2, H1.out.set HG.out (by rw [List.length_set]; exact HBL.out) hh⟩, by simp [intOf]; omega⟩
          · rename (((((x[n]?.getD 0 : Nat) : Int) / 2 ^ m).tmod 2 == 1) = false) => h
            have hb0 : V / 2 ^ (st + m) % 2 = 0 := by
              rw [HXB.out m hlm, ← word_bit, h]
              rfl
            exact ⟨⟨m + 1, l, by omega, by go_num, by rw [HVM.out]; exact (no_bit V (st + m) hb0).symm, H1.out⟩, by simp [intOf]; omega⟩
        · obtain rfl : m = nb := by omega
          go_wp2_with fail
          refine (HBT.out _).mono ?_
          rintro e x1 ⟨rfl, rfl⟩
          go_wp2_with fail
          refine (HBT.out _).mono ?_
          rintro e x1 ⟨rfl, rfl⟩
          go_wp2_with fail
          exact ⟨⟨n + 1, l, by omega, by rw [HON.out]; go_num, by go_num, by rw [HON.out]; exact HVM.out, H1.out⟩, by first | (simp [intOf]; omega) | simp [intOf]⟩
    · obtain rfl : n = 10 := by omega
      have hV : leb l = V := by
        rw [HVL.out]
        exact Nat.mod_eq_of_lt HVB.out
      have HVE := Lib.hid hV
      have HBL : Hid (l.length = 32) := H.out.b.1
      have c0 := H.out.b.cell 0 (by omega)
      have c31 := H.out.b.cell 31 (by omega)
      obtain ⟨t, ht⟩ := H.out.b.2
      have HT := Lib.hid ht
      clear ht HVL hV
      have HLA := Lib.hid (closeA l HBL.out (by rw [HVE.out]; exact HVB.out))
      have HLB := Lib.hid (closeB l HBL.out)
      rw [HVE.out] at HLA HLB
      generalize hb0 : (l.getD 0 0).toNat = b0 at *
      generalize hb31 : (l.getD 31 0).toNat = b31 at *
      have HB0 := Lib.hid hb0
      have HB31 := Lib.hid hb31
      clear hb0 hb31
      by_cases h0 : b0 < 237
      · have h0i : (b0 : Int) < 237 := by omega
        have HR : Hid (vN (V % PP) = .agg (bcs l).toArray) := by have h := HLA.out (Or.inl h0); unfold vN; rw [← h]; exact Lib.hid rfl
        go_wp2_with (first | ((with_reducible show wpList _ _ _ (⟨_, .load 23 (.tmp 3), _, _, _, _⟩ :: _) _ _); go_must (refine wpList_load_arr rfl 23 (.tmp 3) rfl g 0 rfl (bcs l) (fun i u hu => by rw [Nat.zero_add]; exact row_cells HT.out i u (by simpa using hu)) _ under23 rfl (by rw [bcs_len, HBL.out]; exact size23) ?_)) | ((with_reducible show wpList _ _ _ (⟨none, .store 23 (.tmp 2) (.tmp 63), _, _, _, _⟩ :: _) _ _); go_must (refine wpList_store_all rfl 23 (.tmp 2) (.tmp 63) rfl (w.heap.size + 1) rfl (bcs l).toArray rfl 23 _ H.out.res (by rw [List.size_toArray, bcs_len, HBL.out]; exact size23) (by rw [List.size_toArray, bcs_len, HBL.out]; rfl) (bcs_one _) ?_; intro x5 hh hg hz; have HH := Lib.hid hh; have HG := Lib.hid hg; clear hh hg hz)) | fail)
        refine bodyPost_ret (results_cell_row rfl _ _ (w.heap.size + 1) 23 (bcs l).toArray _ _ rfl HH.out under23 rfl (by rw [List.size_toArray, bcs_len, HBL.out]; exact size23)) rfl ?_
        exact ⟨by rw [HR.out], H.out.bel.grown HG.out H.out.bel.size (fun r hr => by injection hr; omega)⟩
      · have h0i : ¬ (b0 : Int) < 237 := by omega
        have h0j : (237 : Int) ≤ (b0 : Int) := by omega
        by_cases h31 : b31 = 127
        · have h31i : ((b31 : Int) != 127) = false := by rw [h31]; rfl
          go_wp2_with fail
          go_loopw [7] (fun j wi => ∃ m : Nat, m ≤ 31 ∧ j = .int .i64 m ∧ 0 < m ∧ (∀ i, 0 < i → i < m → (l.getD i 0).toNat = 255) ∧ Cz w g x l wi) (fun j _ => 31 - (intOf j).toNat)
          case atStart => exact ⟨1, by omega, rfl, by omega, fun i h0 h1 => absurd h1 (by omega), H.out⟩
          case round =>
            obtain ⟨m, hm, rfl, hm0, hall, hp⟩ := hrel
            have H1 := Lib.hid hp
            have HAll := Lib.hid hall
            obtain ⟨t2, ht2⟩ := H1.out.b.2
            have HT := Lib.hid ht2
            clear hp H hall c0 c31 ht2
            by_cases hlm : m < 31
            · have hmi : (m : Int) < 31 := by omega
              have cm := H1.out.b.cell m (by omega)
              generalize hbm : (l.getD m 0).toNat = bm at cm
              have HBM := Lib.hid hbm
              clear hbm
              by_cases h255 : bm = 255
              · have hi : ((bm : Int) != 255) = false := by rw [h255]; rfl
                go_wp2_with fail
                exact ⟨⟨m + 1, by omega, by go_num, by omega, fun i h0 h1 => by
                  by_cases e : i = m
                  · rw [e, HBM.out, h255]
                  · exact HAll.out i h0 (by omega), H1.out⟩, by simp [intOf]; omega⟩
              · have hi : ((bm : Int) != 255) = true := by simp; omega
                have HR : Hid (vN (V % PP) = .agg (bcs l).toArray) := by have h := HLA.out (Or.inr (Or.inr ⟨m, hm0, hlm, by rw [HBM.out]; exact h255⟩)); unfold vN; rw [← h]; exact Lib.hid rfl
                go_wp2_with (first | ((with_reducible show wpList _ _ _ (⟨_, .load 23 (.tmp 3), _, _, _, _⟩ :: _) _ _); go_must (refine wpList_load_arr rfl 23 (.tmp 3) rfl g 0 rfl (bcs l) (fun i u hu => by rw [Nat.zero_add]; exact row_cells HT.out i u (by simpa using hu)) _ under23 rfl (by rw [bcs_len, HBL.out]; exact size23) ?_)) | ((with_reducible show wpList _ _ _ (⟨none, .store 23 (.tmp 2) (.tmp 72), _, _, _, _⟩ :: _) _ _); go_must (refine wpList_store_all rfl 23 (.tmp 2) (.tmp 72) rfl (w.heap.size + 1) rfl (bcs l).toArray rfl 23 _ H1.out.res (by rw [List.size_toArray, bcs_len, HBL.out]; exact size23) (by rw [List.size_toArray, bcs_len, HBL.out]; rfl) (bcs_one _) ?_; intro x5 hh hg hz; have HH := Lib.hid hh; have HG := Lib.hid hg; clear hh hg hz)) | fail)
                refine bodyPost_ret (results_cell_row rfl _ _ (w.heap.size + 1) 23 (bcs l).toArray _ _ rfl HH.out under23 rfl (by rw [List.size_toArray, bcs_len, HBL.out]; exact size23)) rfl ?_
                exact ⟨by rw [HR.out], H1.out.bel.grown HG.out H1.out.bel.size (fun r hr => by injection hr; omega)⟩
            · obtain rfl : m = 31 := by omega
              have c0 := H1.out.b.cell 0 (by omega)
              rw [HB0.out] at c0
              have hsub : IntKind.u8.wrap ((b0 : Int) - 237) = ((b0 - 237 : Nat) : Int) := by
                have hb0 : b0 < 256 := by rw [← HB0.out]; exact UInt8.toNat_lt _
                show ((b0 : Int) - 237) % 256 = _
                omega
              have HBV : Hid (Value.agg (Value.int IntKind.u8 ((b0 - 237 : Nat) : Int) :: List.replicate 31 (Value.int IntKind.u8 0)).toArray = vN (V % PP)) := by
                have h := HLB.out h0 h31 HAll.out
                have hb0 : b0 - 237 < 256 := by have := UInt8.toNat_lt (l.getD 0 0); have := HB0.out; omega
                unfold vN
                rw [h]
                show _ = Value.agg (bc (UInt8.ofNat (b0 - 237)) :: bcs (List.replicate 31 0)).toArray
                unfold bc
                rw [of_byte, Nat.mod_eq_of_lt hb0]
                exact Lib.hid rfl
              obtain ⟨L, hL⟩ : ∃ L, L = enc (V % PP) := ⟨_, rfl⟩
              have HLL : Hid (L.length = 32) := by rw [hL]; exact enc_len _
              have HLE : Hid (Value.agg (bcs L).toArray = vN (V % PP)) := by rw [hL]; rfl
              rw [← HLE.out] at HBV
              clear hL
              go_wp2_with (first | ((with_reducible show wpList _ _ _ (⟨_, .build 23 _, _, _, _, _⟩ :: _) _ _); go_must (refine wpList_exec rfl (.agg (bcs L).toArray) (exec_build1 (.tmp 75) ((b0 - 237 : Nat) : Int) _ rfl rfl HBV.out) ?_)) | ((with_reducible show wpList _ _ _ (⟨none, .store 23 (.tmp 2) (.tmp 76), _, _, _, _⟩ :: _) _ _); go_must (refine wpList_store_all rfl 23 (.tmp 2) (.tmp 76) rfl (w.heap.size + 1) rfl (bcs L).toArray rfl 23 _ H1.out.res (by rw [List.size_toArray, bcs_len, HLL.out]; exact size23) (by rw [List.size_toArray, bcs_len, HLL.out]; rfl) (bcs_one _) ?_; intro x5 hh hg hz; have HH := Lib.hid hh; have HG := Lib.hid hg; clear hh hg hz)) | fail)
              refine bodyPost_ret (results_cell_row rfl _ _ (w.heap.size + 1) 23 (bcs L).toArray _ _ rfl HH.out under23 rfl (by rw [List.size_toArray, bcs_len, HLL.out]; exact size23)) rfl ?_
              exact ⟨by rw [HLE.out], H1.out.bel.grown HG.out H1.out.bel.size (fun r hr => by injection hr; omega)⟩
        · have h31i : ((b31 : Int) != 127) = true := by simp; omega
          have HR : Hid (vN (V % PP) = .agg (bcs l).toArray) := by have h := HLA.out (Or.inr (Or.inl h31)); unfold vN; rw [← h]; exact Lib.hid rfl
          go_wp2_with (first | ((with_reducible show wpList _ _ _ (⟨_, .load 23 (.tmp 3), _, _, _, _⟩ :: _) _ _); go_must (refine wpList_load_arr rfl 23 (.tmp 3) rfl g 0 rfl (bcs l) (fun i u hu => by rw [Nat.zero_add]; exact row_cells HT.out i u (by simpa using hu)) _ under23 rfl (by rw [bcs_len, HBL.out]; exact size23) ?_)) | ((with_reducible show wpList _ _ _ (⟨none, .store 23 (.tmp 2) (.tmp 63), _, _, _, _⟩ :: _) _ _); go_must (refine wpList_store_all rfl 23 (.tmp 2) (.tmp 63) rfl (w.heap.size + 1) rfl (bcs l).toArray rfl 23 _ H.out.res (by rw [List.size_toArray, bcs_len, HBL.out]; exact size23) (by rw [List.size_toArray, bcs_len, HBL.out]; rfl) (bcs_one _) ?_; intro x5 hh hg hz; have HH := Lib.hid hh; have HG := Lib.hid hg; clear hh hg hz)) | fail)
          refine bodyPost_ret (results_cell_row rfl _ _ (w.heap.size + 1) 23 (bcs l).toArray _ _ rfl HH.out under23 rfl (by rw [List.size_toArray, bcs_len, HBL.out]; exact size23)) rfl ?_
          exact ⟨by rw [HR.out], H.out.bel.grown HG.out H.out.bel.size (fun r hr => by injection hr; omega)⟩

theorem Close_gives (o : List Nat) (h : R10 o) (w : World) : Calls Try.prog 67 #[.agg (ics o).toArray] w (Gives (vN (val10 o % PP)) w) := by
  obtain ⟨hx, h2⟩ := cry4 o h
  have l1 : (cry o 10).length = 10 := (cry_len _ _).trans h.1
  have hs : ∀ z : List Nat, X10 z → ∀ i, i < 10 → z.getD i 0 < 4611686018427387904 := fun z hz i hi => by
    have := hz.2 i hi
    have : m10 i ≤ 67108864 := by unfold m10; split <;> decide
    omega
  have e : cry (cry (cry o 10) 10) 10 = cry (cry o 10) 10 := cry_id _ hx 10 (Nat.le_refl _)
  have k := Close_core o (cry o 10) (cry (cry o 10) 10) _ w (Lib.hid h.1) (Lib.hid l1) (Lib.hid hx) (Lib.hid rfl) (Lib.hid (X10_val _ hx))
    (Lib.hid fun w => carry_any o h.1 (fun i hi => by have := (h.2 i hi).1; omega) w)
    (Lib.hid fun w => carry_any _ l1 (fun i hi => ?_) w)
    (Lib.hid fun w => by
      have q := carry_any (cry (cry o 10) 10) hx.1 (hs _ hx) w
      rw [e] at q
      exact q)
  · rw [cry_res _ l1, cry_res _ h.1] at k
    exact k
  · obtain ⟨k1, _, _, k4⟩ := cry_bnd o h.1 67109889 5 (fun i hi => by have := (h.2 i hi).1; omega) (by decide) 10 (Nat.le_refl _)
    by_cases h0 : i = 0
    · subst h0
      have := k4 rfl
      omega
    · have := k1 i hi (by omega)
      have : m10 i ≤ 67108864 := by unfold m10; split <;> decide
      omega
end Go.Proofs.Ytgdimnbdnepbgaa
/- The reference's functions of numbers. No statement is proved here. -/
namespace Go.Proofs.Ytgdimnbdnepbgaa
open Go.RowKit
set_option linter.unusedVariables false
set_option maxRecDepth 40000
set_option linter.unusedSimpArgs false

theorem CG10 (args : Array Value) (w : World) : (callFunc 10 args).run Try.prog w = .ok (.enter 10 args) w := callEnter Try.func10 (by kernel_rfl) rfl args w
theorem CG11 (args : Array Value) (w : World) : (callFunc 11 args).run Try.prog w = .ok (.enter 11 args) w := callEnter Try.func11 (by kernel_rfl) rfl args w
theorem CG12 (args : Array Value) (w : World) : (callFunc 12 args).run Try.prog w = .ok (.enter 12 args) w := callEnter Try.func12 (by kernel_rfl) rfl args w
theorem CG13 (args : Array Value) (w : World) : (callFunc 13 args).run Try.prog w = .ok (.enter 13 args) w := callEnter Try.func13 (by kernel_rfl) rfl args w
theorem CG14 (args : Array Value) (w : World) : (callFunc 14 args).run Try.prog w = .ok (.enter 14 args) w := callEnter Try.func14 (by kernel_rfl) rfl args w
theorem CG15 (args : Array Value) (w : World) : (callFunc 15 args).run Try.prog w = .ok (.enter 15 args) w := callEnter Try.func15 (by kernel_rfl) rfl args w
theorem CG16 (args : Array Value) (w : World) : (callFunc 16 args).run Try.prog w = .ok (.enter 16 args) w := callEnter Try.func16 (by kernel_rfl) rfl args w
theorem CG17 (args : Array Value) (w : World) : (callFunc 17 args).run Try.prog w = .ok (.enter 17 args) w := callEnter Try.func17 (by kernel_rfl) rfl args w
theorem CG18 (args : Array Value) (w : World) : (callFunc 18 args).run Try.prog w = .ok (.enter 18 args) w := callEnter Try.func18 (by kernel_rfl) rfl args w
theorem CG19 (args : Array Value) (w : World) : (callFunc 19 args).run Try.prog w = .ok (.enter 19 args) w := callEnter Try.func19 (by kernel_rfl) rfl args w
theorem CG20 (args : Array Value) (w : World) : (callFunc 20 args).run Try.prog w = .ok (.enter 20 args) w := callEnter Try.func20 (by kernel_rfl) rfl args w
theorem CG21 (args : Array Value) (w : World) : (callFunc 21 args).run Try.prog w = .ok (.enter 21 args) w := callEnter Try.func21 (by kernel_rfl) rfl args w
theorem CG22 (args : Array Value) (w : World) : (callFunc 22 args).run Try.prog w = .ok (.enter 22 args) w := callEnter Try.func22 (by kernel_rfl) rfl args w
theorem CG23 (args : Array Value) (w : World) : (callFunc 23 args).run Try.prog w = .ok (.enter 23 args) w := callEnter Try.func23 (by kernel_rfl) rfl args w
theorem CG24 (args : Array Value) (w : World) : (callFunc 24 args).run Try.prog w = .ok (.enter 24 args) w := callEnter Try.func24 (by kernel_rfl) rfl args w
theorem CG25 (args : Array Value) (w : World) : (callFunc 25 args).run Try.prog w = .ok (.enter 25 args) w := callEnter Try.func25 (by kernel_rfl) rfl args w
theorem CG26 (args : Array Value) (w : World) : (callFunc 26 args).run Try.prog w = .ok (.enter 26 args) w := callEnter Try.func26 (by kernel_rfl) rfl args w
theorem CG27 (args : Array Value) (w : World) : (callFunc 27 args).run Try.prog w = .ok (.enter 27 args) w := callEnter Try.func27 (by kernel_rfl) rfl args w
theorem CG28 (args : Array Value) (w : World) : (callFunc 28 args).run Try.prog w = .ok (.enter 28 args) w := callEnter Try.func28 (by kernel_rfl) rfl args w
theorem CG29 (args : Array Value) (w : World) : (callFunc 29 args).run Try.prog w = .ok (.enter 29 args) w := callEnter Try.func29 (by kernel_rfl) rfl args w
theorem CG30 (args : Array Value) (w : World) : (callFunc 30 args).run Try.prog w = .ok (.enter 30 args) w := callEnter Try.func30 (by kernel_rfl) rfl args w
theorem CG31 (args : Array Value) (w : World) : (callFunc 31 args).run Try.prog w = .ok (.enter 31 args) w := callEnter Try.func31 (by kernel_rfl) rfl args w
theorem CG32 (args : Array Value) (w : World) : (callFunc 32 args).run Try.prog w = .ok (.enter 32 args) w := callEnter Try.func32 (by kernel_rfl) rfl args w
theorem CG33 (args : Array Value) (w : World) : (callFunc 33 args).run Try.prog w = .ok (.enter 33 args) w := callEnter Try.func33 (by kernel_rfl) rfl args w
theorem CG34 (args : Array Value) (w : World) : (callFunc 34 args).run Try.prog w = .ok (.enter 34 args) w := callEnter Try.func34 (by kernel_rfl) rfl args w
theorem CG35 (args : Array Value) (w : World) : (callFunc 35 args).run Try.prog w = .ok (.enter 35 args) w := callEnter Try.func35 (by kernel_rfl) rfl args w
theorem CG36 (args : Array Value) (w : World) : (callFunc 36 args).run Try.prog w = .ok (.enter 36 args) w := callEnter Try.func36 (by kernel_rfl) rfl args w
theorem CG37 (args : Array Value) (w : World) : (callFunc 37 args).run Try.prog w = .ok (.enter 37 args) w := callEnter Try.func37 (by kernel_rfl) rfl args w
theorem CG38 (args : Array Value) (w : World) : (callFunc 38 args).run Try.prog w = .ok (.enter 38 args) w := callEnter Try.func38 (by kernel_rfl) rfl args w
theorem CG39 (args : Array Value) (w : World) : (callFunc 39 args).run Try.prog w = .ok (.enter 39 args) w := callEnter Try.func39 (by kernel_rfl) rfl args w
theorem CG40 (args : Array Value) (w : World) : (callFunc 40 args).run Try.prog w = .ok (.enter 40 args) w := callEnter Try.func40 (by kernel_rfl) rfl args w
theorem CG41 (args : Array Value) (w : World) : (callFunc 41 args).run Try.prog w = .ok (.enter 41 args) w := callEnter Try.func41 (by kernel_rfl) rfl args w
theorem CG42 (args : Array Value) (w : World) : (callFunc 42 args).run Try.prog w = .ok (.enter 42 args) w := callEnter Try.func42 (by kernel_rfl) rfl args w
theorem CG43 (args : Array Value) (w : World) : (callFunc 43 args).run Try.prog w = .ok (.enter 43 args) w := callEnter Try.func43 (by kernel_rfl) rfl args w
theorem CG44 (args : Array Value) (w : World) : (callFunc 44 args).run Try.prog w = .ok (.enter 44 args) w := callEnter Try.func44 (by kernel_rfl) rfl args w
theorem CG45 (args : Array Value) (w : World) : (callFunc 45 args).run Try.prog w = .ok (.enter 45 args) w := callEnter Try.func45 (by kernel_rfl) rfl args w
theorem CG46 (args : Array Value) (w : World) : (callFunc 46 args).run Try.prog w = .ok (.enter 46 args) w := callEnter Try.func46 (by kernel_rfl) rfl args w
theorem CG47 (args : Array Value) (w : World) : (callFunc 47 args).run Try.prog w = .ok (.enter 47 args) w := callEnter Try.func47 (by kernel_rfl) rfl args w
theorem CG48 (args : Array Value) (w : World) : (callFunc 48 args).run Try.prog w = .ok (.enter 48 args) w := callEnter Try.func48 (by kernel_rfl) rfl args w
theorem CG49 (args : Array Value) (w : World) : (callFunc 49 args).run Try.prog w = .ok (.enter 49 args) w := callEnter Try.func49 (by kernel_rfl) rfl args w
theorem CG50 (args : Array Value) (w : World) : (callFunc 50 args).run Try.prog w = .ok (.enter 50 args) w := callEnter Try.func50 (by kernel_rfl) rfl args w
theorem CG51 (args : Array Value) (w : World) : (callFunc 51 args).run Try.prog w = .ok (.enter 51 args) w := callEnter Try.func51 (by kernel_rfl) rfl args w
theorem CG52 (args : Array Value) (w : World) : (callFunc 52 args).run Try.prog w = .ok (.enter 52 args) w := callEnter Try.func52 (by kernel_rfl) rfl args w
theorem CG53 (args : Array Value) (w : World) : (callFunc 53 args).run Try.prog w = .ok (.enter 53 args) w := callEnter Try.func53 (by kernel_rfl) rfl args w
theorem CG54 (args : Array Value) (w : World) : (callFunc 54 args).run Try.prog w = .ok (.enter 54 args) w := callEnter Try.func54 (by kernel_rfl) rfl args w
theorem CG55 (args : Array Value) (w : World) : (callFunc 55 args).run Try.prog w = .ok (.enter 55 args) w := callEnter Try.func55 (by kernel_rfl) rfl args w
theorem CG56 (args : Array Value) (w : World) : (callFunc 56 args).run Try.prog w = .ok (.enter 56 args) w := callEnter Try.func56 (by kernel_rfl) rfl args w
theorem CG57 (args : Array Value) (w : World) : (callFunc 57 args).run Try.prog w = .ok (.enter 57 args) w := callEnter Try.func57 (by kernel_rfl) rfl args w
theorem CG58 (args : Array Value) (w : World) : (callFunc 58 args).run Try.prog w = .ok (.enter 58 args) w := callEnter Try.func58 (by kernel_rfl) rfl args w
theorem CG59 (args : Array Value) (w : World) : (callFunc 59 args).run Try.prog w = .ok (.enter 59 args) w := callEnter Try.func59 (by kernel_rfl) rfl args w
theorem CG60 (args : Array Value) (w : World) : (callFunc 60 args).run Try.prog w = .ok (.enter 60 args) w := callEnter Try.func60 (by kernel_rfl) rfl args w
theorem CG61 (args : Array Value) (w : World) : (callFunc 61 args).run Try.prog w = .ok (.enter 61 args) w := callEnter Try.func61 (by kernel_rfl) rfl args w
theorem CG62 (args : Array Value) (w : World) : (callFunc 62 args).run Try.prog w = .ok (.enter 62 args) w := callEnter Try.func62 (by kernel_rfl) rfl args w
theorem CG63 (args : Array Value) (w : World) : (callFunc 63 args).run Try.prog w = .ok (.enter 63 args) w := callEnter Try.func63 (by kernel_rfl) rfl args w
theorem CG64 (args : Array Value) (w : World) : (callFunc 64 args).run Try.prog w = .ok (.enter 64 args) w := callEnter Try.func64 (by kernel_rfl) rfl args w
theorem CG67 (args : Array Value) (w : World) : (callFunc 67 args).run Try.prog w = .ok (.enter 67 args) w := callEnter Try.func67 (by kernel_rfl) rfl args w
theorem CG68 (args : Array Value) (w : World) : (callFunc 68 args).run Try.prog w = .ok (.enter 68 args) w := callEnter Try.func68 (by kernel_rfl) rfl args w
theorem CG71 (args : Array Value) (w : World) : (callFunc 71 args).run Try.prog w = .ok (.enter 71 args) w := callEnter Try.func71 (by kernel_rfl) rfl args w
theorem CG73 (args : Array Value) (w : World) : (callFunc 73 args).run Try.prog w = .ok (.enter 73 args) w := callEnter Try.func73 (by kernel_rfl) rfl args w
theorem CG75 (args : Array Value) (w : World) : (callFunc 75 args).run Try.prog w = .ok (.enter 75 args) w := callEnter Try.func75 (by kernel_rfl) rfl args w
theorem CG77 (args : Array Value) (w : World) : (callFunc 77 args).run Try.prog w = .ok (.enter 77 args) w := callEnter Try.func77 (by kernel_rfl) rfl args w
theorem CG78 (args : Array Value) (w : World) : (callFunc 78 args).run Try.prog w = .ok (.enter 78 args) w := callEnter Try.func78 (by kernel_rfl) rfl args w
theorem CG79 (args : Array Value) (w : World) : (callFunc 79 args).run Try.prog w = .ok (.enter 79 args) w := callEnter Try.func79 (by kernel_rfl) rfl args w
theorem CG80 (args : Array Value) (w : World) : (callFunc 80 args).run Try.prog w = .ok (.enter 80 args) w := callEnter Try.func80 (by kernel_rfl) rfl args w
theorem CG81 (args : Array Value) (w : World) : (callFunc 81 args).run Try.prog w = .ok (.enter 81 args) w := callEnter Try.func81 (by kernel_rfl) rfl args w
theorem CG82 (args : Array Value) (w : World) : (callFunc 82 args).run Try.prog w = .ok (.enter 82 args) w := callEnter Try.func82 (by kernel_rfl) rfl args w
theorem CG83 (args : Array Value) (w : World) : (callFunc 83 args).run Try.prog w = .ok (.enter 83 args) w := callEnter Try.func83 (by kernel_rfl) rfl args w
theorem CG84 (args : Array Value) (w : World) : (callFunc 84 args).run Try.prog w = .ok (.enter 84 args) w := callEnter Try.func84 (by kernel_rfl) rfl args w
theorem CG85 (args : Array Value) (w : World) : (callFunc 85 args).run Try.prog w = .ok (.enter 85 args) w := callEnter Try.func85 (by kernel_rfl) rfl args w
theorem CG86 (args : Array Value) (w : World) : (callFunc 86 args).run Try.prog w = .ok (.enter 86 args) w := callEnter Try.func86 (by kernel_rfl) rfl args w
theorem CG87 (args : Array Value) (w : World) : (callFunc 87 args).run Try.prog w = .ok (.enter 87 args) w := callEnter Try.func87 (by kernel_rfl) rfl args w
theorem CG88 (args : Array Value) (w : World) : (callFunc 88 args).run Try.prog w = .ok (.enter 88 args) w := callEnter Try.func88 (by kernel_rfl) rfl args w
theorem CG89 (args : Array Value) (w : World) : (callFunc 89 args).run Try.prog w = .ok (.enter 89 args) w := callEnter Try.func89 (by kernel_rfl) rfl args w
theorem CG90 (args : Array Value) (w : World) : (callFunc 90 args).run Try.prog w = .ok (.enter 90 args) w := callEnter Try.func90 (by kernel_rfl) rfl args w
theorem CG91 (args : Array Value) (w : World) : (callFunc 91 args).run Try.prog w = .ok (.enter 91 args) w := callEnter Try.func91 (by kernel_rfl) rfl args w
theorem CG100 (args : Array Value) (w : World) : (callFunc 100 args).run Try.prog w = .ok (.enter 100 args) w := callEnter Try.func100 (by kernel_rfl) rfl args w
theorem CG101 (args : Array Value) (w : World) : (callFunc 101 args).run Try.prog w = .ok (.enter 101 args) w := callEnter Try.func101 (by kernel_rfl) rfl args w
theorem CG102 (args : Array Value) (w : World) : (callFunc 102 args).run Try.prog w = .ok (.enter 102 args) w := callEnter Try.func102 (by kernel_rfl) rfl args w
theorem CG103 (args : Array Value) (w : World) : (callFunc 103 args).run Try.prog w = .ok (.enter 103 args) w := callEnter Try.func103 (by kernel_rfl) rfl args w
theorem CG104 (args : Array Value) (w : World) : (callFunc 104 args).run Try.prog w = .ok (.enter 104 args) w := callEnter Try.func104 (by kernel_rfl) rfl args w

set_option maxHeartbeats 1000000 in
theorem rAdd_core (a b n : Nat) (x y z : List Nat) (w : World)
    (HA : Hid (∀ w, Calls Try.prog 68 #[vN a] w (Gives (.agg (ics x).toArray) w))) (HBb : Hid (∀ w, Calls Try.prog 68 #[vN b] w (Gives (.agg (ics y).toArray) w))) (HP : Hid (∀ w, Calls Try.prog 71 #[.agg (ics x).toArray, .agg (ics y).toArray] w (Gives (.agg (ics z).toArray) w))) (HC : Hid (∀ w, Calls Try.prog 67 #[.agg (ics z).toArray] w (Gives (vN n) w))) :
    Calls Try.prog 20 #[vN a, vN b] w (Gives (vN n) w) := by
  go_enter Try.func20, Try.ntmps20
  go_wp2_with (first | ((with_reducible show wpList _ _ _ (⟨some 2, .box 23 (.tmp 0), _, _, _, _⟩ :: _) _ _); go_must (refine wpList_box_row rfl 23 (.tmp 0) rfl (bcs (enc a)).toArray rfl ?_; intro w1 h1 z1 g1; have H1 := Lib.hid h1; have Z1 := Lib.hid z1; have G1 := Lib.hid g1; clear h1 z1 g1)) | ((with_reducible show wpList _ _ _ (⟨some 3, .box 23 (.tmp 1), _, _, _, _⟩ :: _) _ _); go_must (refine wpList_box_row rfl 23 (.tmp 1) rfl (bcs (enc b)).toArray rfl ?_; intro w2 h1 z1 g1; have H2 := Lib.hid h1; have Z2 := Lib.hid z1; have G2 := Lib.hid g1; clear h1 z1 g1)) | ((with_reducible show wpList _ _ _ (⟨some 4, .alloc 23, _, _, _, _⟩ :: _) _ _); go_must (refine wpList_alloc_row rfl 23 rfl (.agg (zbs 32)) zero23 ?_; intro w3 h1 z1 g1; have H3 := Lib.hid h1; have Z3 := Lib.hid z1; have G3 := Lib.hid g1; clear h1 z1 g1)))
  have R : Hid (NAt w3 w.heap.size a) := (NAt.grown ⟨23, H1.out⟩ G2.out (by simp)).grown G3.out (by simp)
  have Q : Hid (NAt w3 (w.heap.size + 1) b) := by
    have h := H2.out
    rw [Z1.out] at h
    exact NAt.grown ⟨23, h⟩ G3.out (by simp)
  have HB : Hid (Below w.heap.size w w3) := (below_of_grownBy G1.out).trans (((below_of_grownBy G2.out).mono (by have := Z1.out; omega)).trans ((below_of_grownBy G3.out).mono (by have := Z1.out; have := Z2.out; omega)))
  have Z : Hid (ZAt w3 (w.heap.size + 2)) := by
    have h := H3.out
    rw [Z2.out, Z1.out] at h
    exact h
  rw [show w2.heap.size = w.heap.size + 2 from by rw [Z2.out, Z1.out], show w1.heap.size = w.heap.size + 1 from Z1.out]
  have HLTwheapsize : Hid (w.heap.size < w3.heap.size) := R.out.lt
  have HLTwheapsizep1 : Hid (w.heap.size + 1 < w3.heap.size) := Q.out.lt
  have HLTwheapsizep2 : Hid (w.heap.size + 2 < w3.heap.size) := Z.out.lt
  clear H1 Z1 G1 H2 Z2 G2 H3 Z3 G3
  refine region_split (fun a' W => NAt W (w.heap.size + 2) n ∧ Below w.heap.size w W ∧ a' = ⟨#[vN a, vN b, .pointer (some ⟨w.heap.size, 0, none⟩), .pointer (some ⟨w.heap.size + 1, 0, none⟩), .pointer (some ⟨w.heap.size + 2, 0, none⟩), vN a, .agg (ics x).toArray, vN b, .agg (ics y).toArray, .agg (ics z).toArray, vN n], []⟩) ?_ ?_
  · refine startW (fun j => j == 6) (w3.heap.size) (by kernel_rfl) ?_
    obtain ⟨D1, hD1⟩ : ∃ D, D = w3.drew := ⟨_, rfl⟩
    rw [← hD1]
    have HLD1 : Hid (w3.heap.size ≤ D1.heap.size) := Lib.hid (by rw [hD1]; exact Nat.le_refl _)
    have HBD1 : Hid (Below w.heap.size w D1) := Lib.hid (by rw [hD1]; exact below_drewN' HB.out 1)
    have R0D1 : Hid (NAt D1 (w.heap.size) a) := Lib.hid (by rw [hD1]; exact R.out)
    have R1D1 : Hid (NAt D1 (w.heap.size + 1) b) := Lib.hid (by rw [hD1]; exact Q.out)
    have Z0D1 : Hid (ZAt D1 (w.heap.size + 2)) := Lib.hid (by rw [hD1]; exact Z.out)
    clear hD1
    refine takeT (i := 0) (oi := { dst := some 5, op := Op.load 23 (Operand.tmp 2), type := 23, pos := "ref.go:130", after := #[], guard := none }) (vN a) rfl (by kernel_rfl) (by kernel_rfl) (by kernel_rfl) (by kernel_rfl) (by kernel_rfl) (fun _ _ _ h => nomatch h.1) (by rfl) (fun w' hk => exec_load23 (.tmp 2) rfl (w.heap.size) a rfl (R0D1.out.below hk HLTwheapsize.out)) ?_
    simp only [Act.put, List.setIfInBounds_toArray, List.set_cons_zero, List.set_cons_succ]
    refine takeT (i := 2) (oi := { dst := some 7, op := Op.load 23 (Operand.tmp 3), type := 23, pos := "ref.go:130", after := #[], guard := none }) (vN b) rfl (by kernel_rfl) (by kernel_rfl) (by kernel_rfl) (by kernel_rfl) (by kernel_rfl) (fun _ _ _ h => nomatch h.1) (by rfl) (fun w' hk => exec_load23 (.tmp 3) rfl (w.heap.size + 1) b rfl (R1D1.out.below hk HLTwheapsizep1.out)) ?_
    simp only [Act.put, List.setIfInBounds_toArray, List.set_cons_zero, List.set_cons_succ]
    refine callW (i := 1) (oi := { dst := some 6, op := Op.call { callee := Callee.value (Operand.func 68), args := #[Operand.tmp 5], argTypes := #[23] }, type := 65, pos := "ref.go:130", after := #[{ on := 0, ground := Ground.data }], guard := none }) rfl (by kernel_rfl) (by rfl) (exec_callL 68 [.tmp 5] #[23] rfl [vN a] rfl (CG68 _)) ((HA.out D1).mono ?_)
    rintro eW2 W2 ⟨rfl, hbW2⟩
    refine ⟨_, rfl, fun _ => hbW2.mono HLD1.out, ?_⟩
    have HBW2 : Hid (Below w.heap.size w W2) := Lib.hid (HBD1.out.trans (hbW2.mono HBD1.out.size))
    have HLW2 : Hid (w3.heap.size ≤ W2.heap.size) := Lib.hid (Nat.le_trans HLD1.out hbW2.size)
    have R0D1_W2 := Lib.hid (R0D1.out.keep hbW2)
    have R1D1_W2 := Lib.hid (R1D1.out.keep hbW2)
    have Z0D1_W2 := Lib.hid (Z0D1.out.keep hbW2)
    clear hbW2 HBD1 HLD1 R0D1 R1D1 Z0D1
    simp only [Act.put, List.setIfInBounds_toArray, List.set_cons_zero, List.set_cons_succ]
    refine callW (i := 3) (oi := { dst := some 8, op := Op.call { callee := Callee.value (Operand.func 68), args := #[Operand.tmp 7], argTypes := #[23] }, type := 65, pos := "ref.go:130", after := #[{ on := 2, ground := Ground.data }, { on := 1, ground := Ground.chain }], guard := none }) rfl (by kernel_rfl) (by rfl) (exec_callL 68 [.tmp 7] #[23] rfl [vN b] rfl (CG68 _)) ((HBb.out W2).mono ?_)
    rintro eW3 W3 ⟨rfl, hbW3⟩
    refine ⟨_, rfl, fun _ => hbW3.mono HLW2.out, ?_⟩
    have HBW3 : Hid (Below w.heap.size w W3) := Lib.hid (HBW2.out.trans (hbW3.mono HBW2.out.size))
    have HLW3 : Hid (w3.heap.size ≤ W3.heap.size) := Lib.hid (Nat.le_trans HLW2.out hbW3.size)
    have R0D1_W3 := Lib.hid (R0D1_W2.out.keep hbW3)
    have R1D1_W3 := Lib.hid (R1D1_W2.out.keep hbW3)
    have Z0D1_W3 := Lib.hid (Z0D1_W2.out.keep hbW3)
    clear hbW3 HBW2 HLW2 R0D1_W2 R1D1_W2 Z0D1_W2
    simp only [Act.put, List.setIfInBounds_toArray, List.set_cons_zero, List.set_cons_succ]
    refine callW (i := 4) (oi := { dst := some 9, op := Op.call { callee := Callee.value (Operand.func 71), args := #[Operand.tmp 6, Operand.tmp 8], argTypes := #[65, 65] }, type := 65, pos := "ref.go:130", after := #[{ on := 1, ground := Ground.data }, { on := 3, ground := Ground.data }, { on := 3, ground := Ground.chain }], guard := none }) rfl (by kernel_rfl) (by rfl) (exec_callL 71 [.tmp 6, .tmp 8] #[65, 65] rfl [.agg (ics x).toArray, .agg (ics y).toArray] rfl (CG71 _)) ((HP.out W3).mono ?_)
    rintro eW4 W4 ⟨rfl, hbW4⟩
    refine ⟨_, rfl, fun _ => hbW4.mono HLW3.out, ?_⟩
    have HBW4 : Hid (Below w.heap.size w W4) := Lib.hid (HBW3.out.trans (hbW4.mono HBW3.out.size))
    have HLW4 : Hid (w3.heap.size ≤ W4.heap.size) := Lib.hid (Nat.le_trans HLW3.out hbW4.size)
    have R0D1_W4 := Lib.hid (R0D1_W3.out.keep hbW4)
    have R1D1_W4 := Lib.hid (R1D1_W3.out.keep hbW4)
    have Z0D1_W4 := Lib.hid (Z0D1_W3.out.keep hbW4)
    clear hbW4 HBW3 HLW3 R0D1_W3 R1D1_W3 Z0D1_W3
    simp only [Act.put, List.setIfInBounds_toArray, List.set_cons_zero, List.set_cons_succ]
    refine callW (i := 5) (oi := { dst := some 10, op := Op.call { callee := Callee.value (Operand.func 67), args := #[Operand.tmp 9], argTypes := #[65] }, type := 23, pos := "ref.go:130", after := #[{ on := 4, ground := Ground.data }, { on := 4, ground := Ground.chain }], guard := none }) rfl (by kernel_rfl) (by rfl) (exec_callL 67 [.tmp 9] #[65] rfl [.agg (ics z).toArray] rfl (CG67 _)) ((HC.out W4).mono ?_)
    rintro eW5 W5 ⟨rfl, hbW5⟩
    refine ⟨_, rfl, fun _ => hbW5.mono HLW4.out, ?_⟩
    have HBW5 : Hid (Below w.heap.size w W5) := Lib.hid (HBW4.out.trans (hbW5.mono HBW4.out.size))
    have HLW5 : Hid (w3.heap.size ≤ W5.heap.size) := Lib.hid (Nat.le_trans HLW4.out hbW5.size)
    have R0D1_W5 := Lib.hid (R0D1_W4.out.keep hbW5)
    have R1D1_W5 := Lib.hid (R1D1_W4.out.keep hbW5)
    have Z0D1_W5 := Lib.hid (Z0D1_W4.out.keep hbW5)
    clear hbW5 HBW4 HLW4 R0D1_W4 R1D1_W4 Z0D1_W4
    simp only [Act.put, List.setIfInBounds_toArray, List.set_cons_zero, List.set_cons_succ]
    refine storeW_all (i := 6) (oi := { dst := none, op := Op.store 23 (Operand.tmp 4) (Operand.tmp 10), type := 0, pos := "ref.go:130", after := #[{ on := 5, ground := Ground.data }, { on := 5, ground := Ground.chain }, { on := 0, ground := Ground.phase }, { on := 1, ground := Ground.phase }, { on := 2, ground := Ground.phase }, { on := 3, ground := Ground.phase }, { on := 4, ground := Ground.phase }, { on := 5, ground := Ground.phase }], guard := none }) rfl (by kernel_rfl) (by rfl) 23 (.tmp 4) (.tmp 10) rfl (w.heap.size + 2) rfl (bcs (enc n)).toArray rfl 23 _ Z0D1_W5.out (by rw [List.size_toArray, bcs_enc_len]; exact size23) (by rw [List.size_toArray, bcs_enc_len]; rfl) (bcs_one _) rfl ?_
    intro W6 hhW6 hgW6 hzW6
    simp only [Act.put, List.setIfInBounds_toArray, List.set_cons_zero, List.set_cons_succ]
    have R0D1_W6 := Lib.hid (R0D1_W5.out.grown hgW6 (by simp))
    have R1D1_W6 := Lib.hid (R1D1_W5.out.grown hgW6 (by simp))
    have Swheapsizep2_W6 : Hid (NAt W6 (w.heap.size + 2) n) := Lib.hid ⟨23, hhW6⟩
    have HBW6 : Hid (Below w.heap.size w W6) := Lib.hid (HBW5.out.grown hgW6 HBW5.out.size (fun r hr => by injection hr with hr; omega))
    have HLW6 : Hid (w3.heap.size ≤ W6.heap.size) := Lib.hid (Nat.le_trans HLW5.out hgW6.size)
    clear hhW6 hgW6 hzW6 HBW5 HLW5 R0D1_W5 R1D1_W5 Z0D1_W5
    refine doneW (by kernel_rfl) ⟨rfl, ?_⟩ _
    exact ⟨Swheapsizep2_W6.out, HBW6.out, rfl⟩
  rintro a' W ⟨⟨t, ht⟩, hb, rfl⟩
  have HH := Lib.hid ht
  have HBel := Lib.hid hb
  clear ht hb R Q HB Z HLTwheapsize HLTwheapsizep1 HLTwheapsizep2 HA HBb HP HC
  go_wp2
  refine bodyPost_ret (results_cell_row rfl _ _ (w.heap.size + 2) t (bcs (enc n)).toArray _ _ rfl HH.out under23 rfl (by rw [List.size_toArray, bcs_enc_len]; exact size23)) rfl ?_
  exact ⟨rfl, HBel.out⟩

set_option maxHeartbeats 1000000 in
theorem rSub_core (a b n : Nat) (x y z : List Nat) (w : World)
    (HA : Hid (∀ w, Calls Try.prog 68 #[vN a] w (Gives (.agg (ics x).toArray) w))) (HBb : Hid (∀ w, Calls Try.prog 68 #[vN b] w (Gives (.agg (ics y).toArray) w))) (HP : Hid (∀ w, Calls Try.prog 73 #[.agg (ics x).toArray, .agg (ics y).toArray] w (Gives (.agg (ics z).toArray) w))) (HC : Hid (∀ w, Calls Try.prog 67 #[.agg (ics z).toArray] w (Gives (vN n) w))) :
    Calls Try.prog 22 #[vN a, vN b] w (Gives (vN n) w) := by
  go_enter Try.func22, Try.ntmps22
  go_wp2_with (first | ((with_reducible show wpList _ _ _ (⟨some 2, .box 23 (.tmp 0), _, _, _, _⟩ :: _) _ _); go_must (refine wpList_box_row rfl 23 (.tmp 0) rfl (bcs (enc a)).toArray rfl ?_; intro w1 h1 z1 g1; have H1 := Lib.hid h1; have Z1 := Lib.hid z1; have G1 := Lib.hid g1; clear h1 z1 g1)) | ((with_reducible show wpList _ _ _ (⟨some 3, .box 23 (.tmp 1), _, _, _, _⟩ :: _) _ _); go_must (refine wpList_box_row rfl 23 (.tmp 1) rfl (bcs (enc b)).toArray rfl ?_; intro w2 h1 z1 g1; have H2 := Lib.hid h1; have Z2 := Lib.hid z1; have G2 := Lib.hid g1; clear h1 z1 g1)) | ((with_reducible show wpList _ _ _ (⟨some 4, .alloc 23, _, _, _, _⟩ :: _) _ _); go_must (refine wpList_alloc_row rfl 23 rfl (.agg (zbs 32)) zero23 ?_; intro w3 h1 z1 g1; have H3 := Lib.hid h1; have Z3 := Lib.hid z1; have G3 := Lib.hid g1; clear h1 z1 g1)))
  have R : Hid (NAt w3 w.heap.size a) := (NAt.grown ⟨23, H1.out⟩ G2.out (by simp)).grown G3.out (by simp)
  have Q : Hid (NAt w3 (w.heap.size + 1) b) := by
    have h := H2.out
    rw [Z1.out] at h
    exact NAt.grown ⟨23, h⟩ G3.out (by simp)
  have HB : Hid (Below w.heap.size w w3) := (below_of_grownBy G1.out).trans (((below_of_grownBy G2.out).mono (by have := Z1.out; omega)).trans ((below_of_grownBy G3.out).mono (by have := Z1.out; have := Z2.out; omega)))
  have Z : Hid (ZAt w3 (w.heap.size + 2)) := by
    have h := H3.out
    rw [Z2.out, Z1.out] at h
    exact h
  rw [show w2.heap.size = w.heap.size + 2 from by rw [Z2.out, Z1.out], show w1.heap.size = w.heap.size + 1 from Z1.out]
  have HLTwheapsize : Hid (w.heap.size < w3.heap.size) := R.out.lt
  have HLTwheapsizep1 : Hid (w.heap.size + 1 < w3.heap.size) := Q.out.lt
  have HLTwheapsizep2 : Hid (w.heap.size + 2 < w3.heap.size) := Z.out.lt
  clear H1 Z1 G1 H2 Z2 G2 H3 Z3 G3
  refine region_split (fun a' W => NAt W (w.heap.size + 2) n ∧ Below w.heap.size w W ∧ a' = ⟨#[vN a, vN b, .pointer (some ⟨w.heap.size, 0, none⟩), .pointer (some ⟨w.heap.size + 1, 0, none⟩), .pointer (some ⟨w.heap.size + 2, 0, none⟩), vN a, .agg (ics x).toArray, vN b, .agg (ics y).toArray, .agg (ics z).toArray, vN n], []⟩) ?_ ?_
  · refine startW (fun j => j == 6) (w3.heap.size) (by kernel_rfl) ?_
    obtain ⟨D7, hD7⟩ : ∃ D, D = w3.drew := ⟨_, rfl⟩
    rw [← hD7]
    have HLD7 : Hid (w3.heap.size ≤ D7.heap.size) := Lib.hid (by rw [hD7]; exact Nat.le_refl _)
    have HBD7 : Hid (Below w.heap.size w D7) := Lib.hid (by rw [hD7]; exact below_drewN' HB.out 1)
    have R0D7 : Hid (NAt D7 (w.heap.size) a) := Lib.hid (by rw [hD7]; exact R.out)
    have R1D7 : Hid (NAt D7 (w.heap.size + 1) b) := Lib.hid (by rw [hD7]; exact Q.out)
    have Z0D7 : Hid (ZAt D7 (w.heap.size + 2)) := Lib.hid (by rw [hD7]; exact Z.out)
    clear hD7
    refine takeT (i := 0) (oi := { dst := some 5, op := Op.load 23 (Operand.tmp 2), type := 23, pos := "ref.go:133", after := #[], guard := none }) (vN a) rfl (by kernel_rfl) (by kernel_rfl) (by kernel_rfl) (by kernel_rfl) (by kernel_rfl) (fun _ _ _ h => nomatch h.1) (by rfl) (fun w' hk => exec_load23 (.tmp 2) rfl (w.heap.size) a rfl (R0D7.out.below hk HLTwheapsize.out)) ?_
    simp only [Act.put, List.setIfInBounds_toArray, List.set_cons_zero, List.set_cons_succ]
    refine takeT (i := 2) (oi := { dst := some 7, op := Op.load 23 (Operand.tmp 3), type := 23, pos := "ref.go:133", after := #[], guard := none }) (vN b) rfl (by kernel_rfl) (by kernel_rfl) (by kernel_rfl) (by kernel_rfl) (by kernel_rfl) (fun _ _ _ h => nomatch h.1) (by rfl) (fun w' hk => exec_load23 (.tmp 3) rfl (w.heap.size + 1) b rfl (R1D7.out.below hk HLTwheapsizep1.out)) ?_
    simp only [Act.put, List.setIfInBounds_toArray, List.set_cons_zero, List.set_cons_succ]
    refine callW (i := 1) (oi := { dst := some 6, op := Op.call { callee := Callee.value (Operand.func 68), args := #[Operand.tmp 5], argTypes := #[23] }, type := 65, pos := "ref.go:133", after := #[{ on := 0, ground := Ground.data }], guard := none }) rfl (by kernel_rfl) (by rfl) (exec_callL 68 [.tmp 5] #[23] rfl [vN a] rfl (CG68 _)) ((HA.out D7).mono ?_)
    rintro eW8 W8 ⟨rfl, hbW8⟩
    refine ⟨_, rfl, fun _ => hbW8.mono HLD7.out, ?_⟩
    have HBW8 : Hid (Below w.heap.size w W8) := Lib.hid (HBD7.out.trans (hbW8.mono HBD7.out.size))
    have HLW8 : Hid (w3.heap.size ≤ W8.heap.size) := Lib.hid (Nat.le_trans HLD7.out hbW8.size)
    have R0D7_W8 := Lib.hid (R0D7.out.keep hbW8)
    have R1D7_W8 := Lib.hid (R1D7.out.keep hbW8)
    have Z0D7_W8 := Lib.hid (Z0D7.out.keep hbW8)
    clear hbW8 HBD7 HLD7 R0D7 R1D7 Z0D7
    simp only [Act.put, List.setIfInBounds_toArray, List.set_cons_zero, List.set_cons_succ]
    refine callW (i := 3) (oi := { dst := some 8, op := Op.call { callee := Callee.value (Operand.func 68), args := #[Operand.tmp 7], argTypes := #[23] }, type := 65, pos := "ref.go:133", after := #[{ on := 2, ground := Ground.data }, { on := 1, ground := Ground.chain }], guard := none }) rfl (by kernel_rfl) (by rfl) (exec_callL 68 [.tmp 7] #[23] rfl [vN b] rfl (CG68 _)) ((HBb.out W8).mono ?_)
    rintro eW9 W9 ⟨rfl, hbW9⟩
    refine ⟨_, rfl, fun _ => hbW9.mono HLW8.out, ?_⟩
    have HBW9 : Hid (Below w.heap.size w W9) := Lib.hid (HBW8.out.trans (hbW9.mono HBW8.out.size))
    have HLW9 : Hid (w3.heap.size ≤ W9.heap.size) := Lib.hid (Nat.le_trans HLW8.out hbW9.size)
    have R0D7_W9 := Lib.hid (R0D7_W8.out.keep hbW9)
    have R1D7_W9 := Lib.hid (R1D7_W8.out.keep hbW9)
    have Z0D7_W9 := Lib.hid (Z0D7_W8.out.keep hbW9)
    clear hbW9 HBW8 HLW8 R0D7_W8 R1D7_W8 Z0D7_W8
    simp only [Act.put, List.setIfInBounds_toArray, List.set_cons_zero, List.set_cons_succ]
    refine callW (i := 4) (oi := { dst := some 9, op := Op.call { callee := Callee.value (Operand.func 73), args := #[Operand.tmp 6, Operand.tmp 8], argTypes := #[65, 65] }, type := 65, pos := "ref.go:133", after := #[{ on := 1, ground := Ground.data }, { on := 3, ground := Ground.data }, { on := 3, ground := Ground.chain }], guard := none }) rfl (by kernel_rfl) (by rfl) (exec_callL 73 [.tmp 6, .tmp 8] #[65, 65] rfl [.agg (ics x).toArray, .agg (ics y).toArray] rfl (CG73 _)) ((HP.out W9).mono ?_)
    rintro eW10 W10 ⟨rfl, hbW10⟩
    refine ⟨_, rfl, fun _ => hbW10.mono HLW9.out, ?_⟩
    have HBW10 : Hid (Below w.heap.size w W10) := Lib.hid (HBW9.out.trans (hbW10.mono HBW9.out.size))
    have HLW10 : Hid (w3.heap.size ≤ W10.heap.size) := Lib.hid (Nat.le_trans HLW9.out hbW10.size)
    have R0D7_W10 := Lib.hid (R0D7_W9.out.keep hbW10)
    have R1D7_W10 := Lib.hid (R1D7_W9.out.keep hbW10)
    have Z0D7_W10 := Lib.hid (Z0D7_W9.out.keep hbW10)
    clear hbW10 HBW9 HLW9 R0D7_W9 R1D7_W9 Z0D7_W9
    simp only [Act.put, List.setIfInBounds_toArray, List.set_cons_zero, List.set_cons_succ]
    refine callW (i := 5) (oi := { dst := some 10, op := Op.call { callee := Callee.value (Operand.func 67), args := #[Operand.tmp 9], argTypes := #[65] }, type := 23, pos := "ref.go:133", after := #[{ on := 4, ground := Ground.data }, { on := 4, ground := Ground.chain }], guard := none }) rfl (by kernel_rfl) (by rfl) (exec_callL 67 [.tmp 9] #[65] rfl [.agg (ics z).toArray] rfl (CG67 _)) ((HC.out W10).mono ?_)
    rintro eW11 W11 ⟨rfl, hbW11⟩
    refine ⟨_, rfl, fun _ => hbW11.mono HLW10.out, ?_⟩
    have HBW11 : Hid (Below w.heap.size w W11) := Lib.hid (HBW10.out.trans (hbW11.mono HBW10.out.size))
    have HLW11 : Hid (w3.heap.size ≤ W11.heap.size) := Lib.hid (Nat.le_trans HLW10.out hbW11.size)
    have R0D7_W11 := Lib.hid (R0D7_W10.out.keep hbW11)
    have R1D7_W11 := Lib.hid (R1D7_W10.out.keep hbW11)
    have Z0D7_W11 := Lib.hid (Z0D7_W10.out.keep hbW11)
    clear hbW11 HBW10 HLW10 R0D7_W10 R1D7_W10 Z0D7_W10
    simp only [Act.put, List.setIfInBounds_toArray, List.set_cons_zero, List.set_cons_succ]
    refine storeW_all (i := 6) (oi := { dst := none, op := Op.store 23 (Operand.tmp 4) (Operand.tmp 10), type := 0, pos := "ref.go:133", after := #[{ on := 5, ground := Ground.data }, { on := 5, ground := Ground.chain }, { on := 0, ground := Ground.phase }, { on := 1, ground := Ground.phase }, { on := 2, ground := Ground.phase }, { on := 3, ground := Ground.phase }, { on := 4, ground := Ground.phase }, { on := 5, ground := Ground.phase }], guard := none }) rfl (by kernel_rfl) (by rfl) 23 (.tmp 4) (.tmp 10) rfl (w.heap.size + 2) rfl (bcs (enc n)).toArray rfl 23 _ Z0D7_W11.out (by rw [List.size_toArray, bcs_enc_len]; exact size23) (by rw [List.size_toArray, bcs_enc_len]; rfl) (bcs_one _) rfl ?_
    intro W12 hhW12 hgW12 hzW12
    simp only [Act.put, List.setIfInBounds_toArray, List.set_cons_zero, List.set_cons_succ]
    have R0D7_W12 := Lib.hid (R0D7_W11.out.grown hgW12 (by simp))
    have R1D7_W12 := Lib.hid (R1D7_W11.out.grown hgW12 (by simp))
    have Swheapsizep2_W12 : Hid (NAt W12 (w.heap.size + 2) n) := Lib.hid ⟨23, hhW12⟩
    have HBW12 : Hid (Below w.heap.size w W12) := Lib.hid (HBW11.out.grown hgW12 HBW11.out.size (fun r hr => by injection hr with hr; omega))
    have HLW12 : Hid (w3.heap.size ≤ W12.heap.size) := Lib.hid (Nat.le_trans HLW11.out hgW12.size)
    clear hhW12 hgW12 hzW12 HBW11 HLW11 R0D7_W11 R1D7_W11 Z0D7_W11
    refine doneW (by kernel_rfl) ⟨rfl, ?_⟩ _
    exact ⟨Swheapsizep2_W12.out, HBW12.out, rfl⟩
  rintro a' W ⟨⟨t, ht⟩, hb, rfl⟩
  have HH := Lib.hid ht
  have HBel := Lib.hid hb
  clear ht hb R Q HB Z HLTwheapsize HLTwheapsizep1 HLTwheapsizep2 HA HBb HP HC
  go_wp2
  refine bodyPost_ret (results_cell_row rfl _ _ (w.heap.size + 2) t (bcs (enc n)).toArray _ _ rfl HH.out under23 rfl (by rw [List.size_toArray, bcs_enc_len]; exact size23)) rfl ?_
  exact ⟨rfl, HBel.out⟩

set_option maxHeartbeats 1000000 in
theorem rMul_core (a b n : Nat) (x y z : List Nat) (w : World)
    (HA : Hid (∀ w, Calls Try.prog 68 #[vN a] w (Gives (.agg (ics x).toArray) w))) (HBb : Hid (∀ w, Calls Try.prog 68 #[vN b] w (Gives (.agg (ics y).toArray) w))) (HP : Hid (∀ w, Calls Try.prog 75 #[.agg (ics x).toArray, .agg (ics y).toArray] w (Gives (.agg (ics z).toArray) w))) (HC : Hid (∀ w, Calls Try.prog 67 #[.agg (ics z).toArray] w (Gives (vN n) w))) :
    Calls Try.prog 26 #[vN a, vN b] w (Gives (vN n) w) := by
  go_enter Try.func26, Try.ntmps26
  go_wp2_with (first | ((with_reducible show wpList _ _ _ (⟨some 2, .box 23 (.tmp 0), _, _, _, _⟩ :: _) _ _); go_must (refine wpList_box_row rfl 23 (.tmp 0) rfl (bcs (enc a)).toArray rfl ?_; intro w1 h1 z1 g1; have H1 := Lib.hid h1; have Z1 := Lib.hid z1; have G1 := Lib.hid g1; clear h1 z1 g1)) | ((with_reducible show wpList _ _ _ (⟨some 3, .box 23 (.tmp 1), _, _, _, _⟩ :: _) _ _); go_must (refine wpList_box_row rfl 23 (.tmp 1) rfl (bcs (enc b)).toArray rfl ?_; intro w2 h1 z1 g1; have H2 := Lib.hid h1; have Z2 := Lib.hid z1; have G2 := Lib.hid g1; clear h1 z1 g1)) | ((with_reducible show wpList _ _ _ (⟨some 4, .alloc 23, _, _, _, _⟩ :: _) _ _); go_must (refine wpList_alloc_row rfl 23 rfl (.agg (zbs 32)) zero23 ?_; intro w3 h1 z1 g1; have H3 := Lib.hid h1; have Z3 := Lib.hid z1; have G3 := Lib.hid g1; clear h1 z1 g1)))
  have R : Hid (NAt w3 w.heap.size a) := (NAt.grown ⟨23, H1.out⟩ G2.out (by simp)).grown G3.out (by simp)
  have Q : Hid (NAt w3 (w.heap.size + 1) b) := by
    have h := H2.out
    rw [Z1.out] at h
    exact NAt.grown ⟨23, h⟩ G3.out (by simp)
  have HB : Hid (Below w.heap.size w w3) := (below_of_grownBy G1.out).trans (((below_of_grownBy G2.out).mono (by have := Z1.out; omega)).trans ((below_of_grownBy G3.out).mono (by have := Z1.out; have := Z2.out; omega)))
  have Z : Hid (ZAt w3 (w.heap.size + 2)) := by
    have h := H3.out
    rw [Z2.out, Z1.out] at h
    exact h
  rw [show w2.heap.size = w.heap.size + 2 from by rw [Z2.out, Z1.out], show w1.heap.size = w.heap.size + 1 from Z1.out]
  have HLTwheapsize : Hid (w.heap.size < w3.heap.size) := R.out.lt
  have HLTwheapsizep1 : Hid (w.heap.size + 1 < w3.heap.size) := Q.out.lt
  have HLTwheapsizep2 : Hid (w.heap.size + 2 < w3.heap.size) := Z.out.lt
  clear H1 Z1 G1 H2 Z2 G2 H3 Z3 G3
  refine region_split (fun a' W => NAt W (w.heap.size + 2) n ∧ Below w.heap.size w W ∧ a' = ⟨#[vN a, vN b, .pointer (some ⟨w.heap.size, 0, none⟩), .pointer (some ⟨w.heap.size + 1, 0, none⟩), .pointer (some ⟨w.heap.size + 2, 0, none⟩), vN a, .agg (ics x).toArray, vN b, .agg (ics y).toArray, .agg (ics z).toArray, vN n], []⟩) ?_ ?_
  · refine startW (fun j => j == 6) (w3.heap.size) (by kernel_rfl) ?_
    obtain ⟨D13, hD13⟩ : ∃ D, D = w3.drew := ⟨_, rfl⟩
    rw [← hD13]
    have HLD13 : Hid (w3.heap.size ≤ D13.heap.size) := Lib.hid (by rw [hD13]; exact Nat.le_refl _)
    have HBD13 : Hid (Below w.heap.size w D13) := Lib.hid (by rw [hD13]; exact below_drewN' HB.out 1)
    have R0D13 : Hid (NAt D13 (w.heap.size) a) := Lib.hid (by rw [hD13]; exact R.out)
    have R1D13 : Hid (NAt D13 (w.heap.size + 1) b) := Lib.hid (by rw [hD13]; exact Q.out)
    have Z0D13 : Hid (ZAt D13 (w.heap.size + 2)) := Lib.hid (by rw [hD13]; exact Z.out)
    clear hD13
    refine takeT (i := 0) (oi := { dst := some 5, op := Op.load 23 (Operand.tmp 2), type := 23, pos := "ref.go:139", after := #[], guard := none }) (vN a) rfl (by kernel_rfl) (by kernel_rfl) (by kernel_rfl) (by kernel_rfl) (by kernel_rfl) (fun _ _ _ h => nomatch h.1) (by rfl) (fun w' hk => exec_load23 (.tmp 2) rfl (w.heap.size) a rfl (R0D13.out.below hk HLTwheapsize.out)) ?_
    simp only [Act.put, List.setIfInBounds_toArray, List.set_cons_zero, List.set_cons_succ]
    refine takeT (i := 2) (oi := { dst := some 7, op := Op.load 23 (Operand.tmp 3), type := 23, pos := "ref.go:139", after := #[], guard := none }) (vN b) rfl (by kernel_rfl) (by kernel_rfl) (by kernel_rfl) (by kernel_rfl) (by kernel_rfl) (fun _ _ _ h => nomatch h.1) (by rfl) (fun w' hk => exec_load23 (.tmp 3) rfl (w.heap.size + 1) b rfl (R1D13.out.below hk HLTwheapsizep1.out)) ?_
    simp only [Act.put, List.setIfInBounds_toArray, List.set_cons_zero, List.set_cons_succ]
    refine callW (i := 1) (oi := { dst := some 6, op := Op.call { callee := Callee.value (Operand.func 68), args := #[Operand.tmp 5], argTypes := #[23] }, type := 65, pos := "ref.go:139", after := #[{ on := 0, ground := Ground.data }], guard := none }) rfl (by kernel_rfl) (by rfl) (exec_callL 68 [.tmp 5] #[23] rfl [vN a] rfl (CG68 _)) ((HA.out D13).mono ?_)
    rintro eW14 W14 ⟨rfl, hbW14⟩
    refine ⟨_, rfl, fun _ => hbW14.mono HLD13.out, ?_⟩
    have HBW14 : Hid (Below w.heap.size w W14) := Lib.hid (HBD13.out.trans (hbW14.mono HBD13.out.size))
    have HLW14 : Hid (w3.heap.size ≤ W14.heap.size) := Lib.hid (Nat.le_trans HLD13.out hbW14.size)
    have R0D13_W14 := Lib.hid (R0D13.out.keep hbW14)
    have R1D13_W14 := Lib.hid (R1D13.out.keep hbW14)
    have Z0D13_W14 := Lib.hid (Z0D13.out.keep hbW14)
    clear hbW14 HBD13 HLD13 R0D13 R1D13 Z0D13
    simp only [Act.put, List.setIfInBounds_toArray, List.set_cons_zero, List.set_cons_succ]
    refine callW (i := 3) (oi := { dst := some 8, op := Op.call { callee := Callee.value (Operand.func 68), args := #[Operand.tmp 7], argTypes := #[23] }, type := 65, pos := "ref.go:139", after := #[{ on := 2, ground := Ground.data }, { on := 1, ground := Ground.chain }], guard := none }) rfl (by kernel_rfl) (by rfl) (exec_callL 68 [.tmp 7] #[23] rfl [vN b] rfl (CG68 _)) ((HBb.out W14).mono ?_)
    rintro eW15 W15 ⟨rfl, hbW15⟩
    refine ⟨_, rfl, fun _ => hbW15.mono HLW14.out, ?_⟩
    have HBW15 : Hid (Below w.heap.size w W15) := Lib.hid (HBW14.out.trans (hbW15.mono HBW14.out.size))
    have HLW15 : Hid (w3.heap.size ≤ W15.heap.size) := Lib.hid (Nat.le_trans HLW14.out hbW15.size)
    have R0D13_W15 := Lib.hid (R0D13_W14.out.keep hbW15)
    have R1D13_W15 := Lib.hid (R1D13_W14.out.keep hbW15)
    have Z0D13_W15 := Lib.hid (Z0D13_W14.out.keep hbW15)
    clear hbW15 HBW14 HLW14 R0D13_W14 R1D13_W14 Z0D13_W14
    simp only [Act.put, List.setIfInBounds_toArray, List.set_cons_zero, List.set_cons_succ]
    refine callW (i := 4) (oi := { dst := some 9, op := Op.call { callee := Callee.value (Operand.func 75), args := #[Operand.tmp 6, Operand.tmp 8], argTypes := #[65, 65] }, type := 65, pos := "ref.go:139", after := #[{ on := 1, ground := Ground.data }, { on := 3, ground := Ground.data }, { on := 3, ground := Ground.chain }], guard := none }) rfl (by kernel_rfl) (by rfl) (exec_callL 75 [.tmp 6, .tmp 8] #[65, 65] rfl [.agg (ics x).toArray, .agg (ics y).toArray] rfl (CG75 _)) ((HP.out W15).mono ?_)
    rintro eW16 W16 ⟨rfl, hbW16⟩
    refine ⟨_, rfl, fun _ => hbW16.mono HLW15.out, ?_⟩
    have HBW16 : Hid (Below w.heap.size w W16) := Lib.hid (HBW15.out.trans (hbW16.mono HBW15.out.size))
    have HLW16 : Hid (w3.heap.size ≤ W16.heap.size) := Lib.hid (Nat.le_trans HLW15.out hbW16.size)
    have R0D13_W16 := Lib.hid (R0D13_W15.out.keep hbW16)
    have R1D13_W16 := Lib.hid (R1D13_W15.out.keep hbW16)
    have Z0D13_W16 := Lib.hid (Z0D13_W15.out.keep hbW16)
    clear hbW16 HBW15 HLW15 R0D13_W15 R1D13_W15 Z0D13_W15
    simp only [Act.put, List.setIfInBounds_toArray, List.set_cons_zero, List.set_cons_succ]
    refine callW (i := 5) (oi := { dst := some 10, op := Op.call { callee := Callee.value (Operand.func 67), args := #[Operand.tmp 9], argTypes := #[65] }, type := 23, pos := "ref.go:139", after := #[{ on := 4, ground := Ground.data }, { on := 4, ground := Ground.chain }], guard := none }) rfl (by kernel_rfl) (by rfl) (exec_callL 67 [.tmp 9] #[65] rfl [.agg (ics z).toArray] rfl (CG67 _)) ((HC.out W16).mono ?_)
    rintro eW17 W17 ⟨rfl, hbW17⟩
    refine ⟨_, rfl, fun _ => hbW17.mono HLW16.out, ?_⟩
    have HBW17 : Hid (Below w.heap.size w W17) := Lib.hid (HBW16.out.trans (hbW17.mono HBW16.out.size))
    have HLW17 : Hid (w3.heap.size ≤ W17.heap.size) := Lib.hid (Nat.le_trans HLW16.out hbW17.size)
    have R0D13_W17 := Lib.hid (R0D13_W16.out.keep hbW17)
    have R1D13_W17 := Lib.hid (R1D13_W16.out.keep hbW17)
    have Z0D13_W17 := Lib.hid (Z0D13_W16.out.keep hbW17)
    clear hbW17 HBW16 HLW16 R0D13_W16 R1D13_W16 Z0D13_W16
    simp only [Act.put, List.setIfInBounds_toArray, List.set_cons_zero, List.set_cons_succ]
    refine storeW_all (i := 6) (oi := { dst := none, op := Op.store 23 (Operand.tmp 4) (Operand.tmp 10), type := 0, pos := "ref.go:139", after := #[{ on := 5, ground := Ground.data }, { on := 5, ground := Ground.chain }, { on := 0, ground := Ground.phase }, { on := 1, ground := Ground.phase }, { on := 2, ground := Ground.phase }, { on := 3, ground := Ground.phase }, { on := 4, ground := Ground.phase }, { on := 5, ground := Ground.phase }], guard := none }) rfl (by kernel_rfl) (by rfl) 23 (.tmp 4) (.tmp 10) rfl (w.heap.size + 2) rfl (bcs (enc n)).toArray rfl 23 _ Z0D13_W17.out (by rw [List.size_toArray, bcs_enc_len]; exact size23) (by rw [List.size_toArray, bcs_enc_len]; rfl) (bcs_one _) rfl ?_
    intro W18 hhW18 hgW18 hzW18
    simp only [Act.put, List.setIfInBounds_toArray, List.set_cons_zero, List.set_cons_succ]
    have R0D13_W18 := Lib.hid (R0D13_W17.out.grown hgW18 (by simp))
    have R1D13_W18 := Lib.hid (R1D13_W17.out.grown hgW18 (by simp))
    have Swheapsizep2_W18 : Hid (NAt W18 (w.heap.size + 2) n) := Lib.hid ⟨23, hhW18⟩
    have HBW18 : Hid (Below w.heap.size w W18) := Lib.hid (HBW17.out.grown hgW18 HBW17.out.size (fun r hr => by injection hr with hr; omega))
    have HLW18 : Hid (w3.heap.size ≤ W18.heap.size) := Lib.hid (Nat.le_trans HLW17.out hgW18.size)
    clear hhW18 hgW18 hzW18 HBW17 HLW17 R0D13_W17 R1D13_W17 Z0D13_W17
    refine doneW (by kernel_rfl) ⟨rfl, ?_⟩ _
    exact ⟨Swheapsizep2_W18.out, HBW18.out, rfl⟩
  rintro a' W ⟨⟨t, ht⟩, hb, rfl⟩
  have HH := Lib.hid ht
  have HBel := Lib.hid hb
  clear ht hb R Q HB Z HLTwheapsize HLTwheapsizep1 HLTwheapsizep2 HA HBb HP HC
  go_wp2
  refine bodyPost_ret (results_cell_row rfl _ _ (w.heap.size + 2) t (bcs (enc n)).toArray _ _ rfl HH.out under23 rfl (by rw [List.size_toArray, bcs_enc_len]; exact size23)) rfl ?_
  exact ⟨rfl, HBel.out⟩

set_option maxHeartbeats 1000000 in
theorem rPow_core (a b n : Nat) (x : List Nat) (GD : List Nat → Prop) (w : World)
    (HA : Hid (∀ w, Calls Try.prog 68 #[vN a] w (Gives (.agg (ics x).toArray) w))) (HP : Hid (∀ w, Calls Try.prog 77 #[.agg (ics x).toArray, vN b] w (fun e w' => ∃ o, GD o ∧ e = .returned (.agg (ics o).toArray) ∧ Below w.heap.size w w'))) (HC : Hid (∀ z, GD z → ∀ w, Calls Try.prog 67 #[.agg (ics z).toArray] w (Gives (vN n) w))) :
    Calls Try.prog 28 #[vN a, vN b] w (Gives (vN n) w) := by
  go_enter Try.func28, Try.ntmps28
  go_wp2_with (first | ((with_reducible show wpList _ _ _ (⟨some 2, .box 23 (.tmp 0), _, _, _, _⟩ :: _) _ _); go_must (refine wpList_box_row rfl 23 (.tmp 0) rfl (bcs (enc a)).toArray rfl ?_; intro w1 h1 z1 g1; have H1 := Lib.hid h1; have Z1 := Lib.hid z1; have G1 := Lib.hid g1; clear h1 z1 g1)) | ((with_reducible show wpList _ _ _ (⟨some 3, .box 23 (.tmp 1), _, _, _, _⟩ :: _) _ _); go_must (refine wpList_box_row rfl 23 (.tmp 1) rfl (bcs (enc b)).toArray rfl ?_; intro w2 h1 z1 g1; have H2 := Lib.hid h1; have Z2 := Lib.hid z1; have G2 := Lib.hid g1; clear h1 z1 g1)) | ((with_reducible show wpList _ _ _ (⟨some 4, .alloc 23, _, _, _, _⟩ :: _) _ _); go_must (refine wpList_alloc_row rfl 23 rfl (.agg (zbs 32)) zero23 ?_; intro w3 h1 z1 g1; have H3 := Lib.hid h1; have Z3 := Lib.hid z1; have G3 := Lib.hid g1; clear h1 z1 g1)))
  have R : Hid (NAt w3 w.heap.size a) := (NAt.grown ⟨23, H1.out⟩ G2.out (by simp)).grown G3.out (by simp)
  have Q : Hid (NAt w3 (w.heap.size + 1) b) := by
    have h := H2.out
    rw [Z1.out] at h
    exact NAt.grown ⟨23, h⟩ G3.out (by simp)
  have HB : Hid (Below w.heap.size w w3) := (below_of_grownBy G1.out).trans (((below_of_grownBy G2.out).mono (by have := Z1.out; omega)).trans ((below_of_grownBy G3.out).mono (by have := Z1.out; have := Z2.out; omega)))
  have Z : Hid (ZAt w3 (w.heap.size + 2)) := by
    have h := H3.out
    rw [Z2.out, Z1.out] at h
    exact h
  rw [show w2.heap.size = w.heap.size + 2 from by rw [Z2.out, Z1.out], show w1.heap.size = w.heap.size + 1 from Z1.out]
  have HLTwheapsize : Hid (w.heap.size < w3.heap.size) := R.out.lt
  have HLTwheapsizep1 : Hid (w.heap.size + 1 < w3.heap.size) := Q.out.lt
  have HLTwheapsizep2 : Hid (w.heap.size + 2 < w3.heap.size) := Z.out.lt
  clear H1 Z1 G1 H2 Z2 G2 H3 Z3 G3
  refine region_split (fun a' W => ∃ z, NAt W (w.heap.size + 2) n ∧ Below w.heap.size w W ∧ a' = ⟨#[vN a, vN b, .pointer (some ⟨w.heap.size, 0, none⟩), .pointer (some ⟨w.heap.size + 1, 0, none⟩), .pointer (some ⟨w.heap.size + 2, 0, none⟩), vN a, .agg (ics x).toArray, vN b, .agg (ics z).toArray, vN n], []⟩) ?_ ?_
  · refine startW (fun j => j == 5) (w3.heap.size) (by kernel_rfl) ?_
    obtain ⟨D19, hD19⟩ : ∃ D, D = w3.drew := ⟨_, rfl⟩
    rw [← hD19]
    have HLD19 : Hid (w3.heap.size ≤ D19.heap.size) := Lib.hid (by rw [hD19]; exact Nat.le_refl _)
    have HBD19 : Hid (Below w.heap.size w D19) := Lib.hid (by rw [hD19]; exact below_drewN' HB.out 1)
    have R0D19 : Hid (NAt D19 (w.heap.size) a) := Lib.hid (by rw [hD19]; exact R.out)
    have R1D19 : Hid (NAt D19 (w.heap.size + 1) b) := Lib.hid (by rw [hD19]; exact Q.out)
    have Z0D19 : Hid (ZAt D19 (w.heap.size + 2)) := Lib.hid (by rw [hD19]; exact Z.out)
    clear hD19
    refine takeT (i := 0) (oi := { dst := some 5, op := Op.load 23 (Operand.tmp 2), type := 23, pos := "ref.go:154", after := #[], guard := none }) (vN a) rfl (by kernel_rfl) (by kernel_rfl) (by kernel_rfl) (by kernel_rfl) (by kernel_rfl) (fun _ _ _ h => nomatch h.1) (by rfl) (fun w' hk => exec_load23 (.tmp 2) rfl (w.heap.size) a rfl (R0D19.out.below hk HLTwheapsize.out)) ?_
    simp only [Act.put, List.setIfInBounds_toArray, List.set_cons_zero, List.set_cons_succ]
    refine takeT (i := 2) (oi := { dst := some 7, op := Op.load 23 (Operand.tmp 3), type := 23, pos := "ref.go:154", after := #[], guard := none }) (vN b) rfl (by kernel_rfl) (by kernel_rfl) (by kernel_rfl) (by kernel_rfl) (by kernel_rfl) (fun _ _ _ h => nomatch h.1) (by rfl) (fun w' hk => exec_load23 (.tmp 3) rfl (w.heap.size + 1) b rfl (R1D19.out.below hk HLTwheapsizep1.out)) ?_
    simp only [Act.put, List.setIfInBounds_toArray, List.set_cons_zero, List.set_cons_succ]
    refine callW (i := 1) (oi := { dst := some 6, op := Op.call { callee := Callee.value (Operand.func 68), args := #[Operand.tmp 5], argTypes := #[23] }, type := 65, pos := "ref.go:154", after := #[{ on := 0, ground := Ground.data }], guard := none }) rfl (by kernel_rfl) (by rfl) (exec_callL 68 [.tmp 5] #[23] rfl [vN a] rfl (CG68 _)) ((HA.out D19).mono ?_)
    rintro eW20 W20 ⟨rfl, hbW20⟩
    refine ⟨_, rfl, fun _ => hbW20.mono HLD19.out, ?_⟩
    have HBW20 : Hid (Below w.heap.size w W20) := Lib.hid (HBD19.out.trans (hbW20.mono HBD19.out.size))
    have HLW20 : Hid (w3.heap.size ≤ W20.heap.size) := Lib.hid (Nat.le_trans HLD19.out hbW20.size)
    have R0D19_W20 := Lib.hid (R0D19.out.keep hbW20)
    have R1D19_W20 := Lib.hid (R1D19.out.keep hbW20)
    have Z0D19_W20 := Lib.hid (Z0D19.out.keep hbW20)
    clear hbW20 HBD19 HLD19 R0D19 R1D19 Z0D19
    simp only [Act.put, List.setIfInBounds_toArray, List.set_cons_zero, List.set_cons_succ]
    refine callW (i := 3) (oi := { dst := some 8, op := Op.call { callee := Callee.value (Operand.func 77), args := #[Operand.tmp 6, Operand.tmp 7], argTypes := #[65, 23] }, type := 65, pos := "ref.go:154", after := #[{ on := 1, ground := Ground.data }, { on := 2, ground := Ground.data }, { on := 1, ground := Ground.chain }], guard := none }) rfl (by kernel_rfl) (by rfl) (exec_callL 77 [.tmp 6, .tmp 7] #[65, 23] rfl [.agg (ics x).toArray, vN b] rfl (CG77 _)) ((HP.out W20).mono ?_)
    rintro eW21 W21 ⟨z, hzG, rfl, hbW21⟩
    refine ⟨_, rfl, fun _ => hbW21.mono HLW20.out, ?_⟩
    have HBW21 : Hid (Below w.heap.size w W21) := Lib.hid (HBW20.out.trans (hbW21.mono HBW20.out.size))
    have HLW21 : Hid (w3.heap.size ≤ W21.heap.size) := Lib.hid (Nat.le_trans HLW20.out hbW21.size)
    have R0D19_W21 := Lib.hid (R0D19_W20.out.keep hbW21)
    have R1D19_W21 := Lib.hid (R1D19_W20.out.keep hbW21)
    have Z0D19_W21 := Lib.hid (Z0D19_W20.out.keep hbW21)
    clear hbW21 HBW20 HLW20 R0D19_W20 R1D19_W20 Z0D19_W20
    simp only [Act.put, List.setIfInBounds_toArray, List.set_cons_zero, List.set_cons_succ]
    refine callW (i := 4) (oi := { dst := some 9, op := Op.call { callee := Callee.value (Operand.func 67), args := #[Operand.tmp 8], argTypes := #[65] }, type := 23, pos := "ref.go:154", after := #[{ on := 3, ground := Ground.data }, { on := 3, ground := Ground.chain }], guard := none }) rfl (by kernel_rfl) (by rfl) (exec_callL 67 [.tmp 8] #[65] rfl [.agg (ics z).toArray] rfl (CG67 _)) ((HC.out z hzG W21).mono ?_)
    rintro eW22 W22 ⟨rfl, hbW22⟩
    refine ⟨_, rfl, fun _ => hbW22.mono HLW21.out, ?_⟩
    have HBW22 : Hid (Below w.heap.size w W22) := Lib.hid (HBW21.out.trans (hbW22.mono HBW21.out.size))
    have HLW22 : Hid (w3.heap.size ≤ W22.heap.size) := Lib.hid (Nat.le_trans HLW21.out hbW22.size)
    have R0D19_W22 := Lib.hid (R0D19_W21.out.keep hbW22)
    have R1D19_W22 := Lib.hid (R1D19_W21.out.keep hbW22)
    have Z0D19_W22 := Lib.hid (Z0D19_W21.out.keep hbW22)
    clear hbW22 HBW21 HLW21 R0D19_W21 R1D19_W21 Z0D19_W21
    simp only [Act.put, List.setIfInBounds_toArray, List.set_cons_zero, List.set_cons_succ]
    refine storeW_all (i := 5) (oi := { dst := none, op := Op.store 23 (Operand.tmp 4) (Operand.tmp 9), type := 0, pos := "ref.go:154", after := #[{ on := 4, ground := Ground.data }, { on := 4, ground := Ground.chain }, { on := 0, ground := Ground.phase }, { on := 1, ground := Ground.phase }, { on := 2, ground := Ground.phase }, { on := 3, ground := Ground.phase }, { on := 4, ground := Ground.phase }], guard := none }) rfl (by kernel_rfl) (by rfl) 23 (.tmp 4) (.tmp 9) rfl (w.heap.size + 2) rfl (bcs (enc n)).toArray rfl 23 _ Z0D19_W22.out (by rw [List.size_toArray, bcs_enc_len]; exact size23) (by rw [List.size_toArray, bcs_enc_len]; rfl) (bcs_one _) rfl ?_
    intro W23 hhW23 hgW23 hzW23
    simp only [Act.put, List.setIfInBounds_toArray, List.set_cons_zero, List.set_cons_succ]
    have R0D19_W23 := Lib.hid (R0D19_W22.out.grown hgW23 (by simp))
    have R1D19_W23 := Lib.hid (R1D19_W22.out.grown hgW23 (by simp))
    have Swheapsizep2_W23 : Hid (NAt W23 (w.heap.size + 2) n) := Lib.hid ⟨23, hhW23⟩
    have HBW23 : Hid (Below w.heap.size w W23) := Lib.hid (HBW22.out.grown hgW23 HBW22.out.size (fun r hr => by injection hr with hr; omega))
    have HLW23 : Hid (w3.heap.size ≤ W23.heap.size) := Lib.hid (Nat.le_trans HLW22.out hgW23.size)
    clear hhW23 hgW23 hzW23 HBW22 HLW22 R0D19_W22 R1D19_W22 Z0D19_W22
    refine doneW (by kernel_rfl) ⟨rfl, ?_⟩ _
    exact ⟨_, Swheapsizep2_W23.out, HBW23.out, rfl⟩
  rintro a' W ⟨z, ⟨t, ht⟩, hb, rfl⟩
  have HH := Lib.hid ht
  have HBel := Lib.hid hb
  clear ht hb R Q HB Z HLTwheapsize HLTwheapsizep1 HLTwheapsizep2 HA HP HC
  go_wp2
  refine bodyPost_ret (results_cell_row rfl _ _ (w.heap.size + 2) t (bcs (enc n)).toArray _ _ rfl HH.out under23 rfl (by rw [List.size_toArray, bcs_enc_len]; exact size23)) rfl ?_
  exact ⟨rfl, HBel.out⟩

set_option maxHeartbeats 1000000 in
theorem rInv_core (a e n : Nat) (w : World)
    (HO : Hid (∀ w, Calls Try.prog 64 #[.int .i64 2, .int .i64 0] w (Gives (vN e) w))) (HP : Hid (∀ w, Calls Try.prog 28 #[vN a, vN e] w (Gives (vN n) w))) :
    Calls Try.prog 30 #[vN a] w (Gives (vN n) w) := by
  go_enter Try.func30, Try.ntmps30
  go_wp2_with (first | ((with_reducible show wpList _ _ _ (⟨some 1, .box 23 (.tmp 0), _, _, _, _⟩ :: _) _ _); go_must (refine wpList_box_row rfl 23 (.tmp 0) rfl (bcs (enc a)).toArray rfl ?_; intro w1 h1 z1 g1; have H1 := Lib.hid h1; have Z1 := Lib.hid z1; have G1 := Lib.hid g1; clear h1 z1 g1)) | ((with_reducible show wpList _ _ _ (⟨some 2, .alloc 23, _, _, _, _⟩ :: _) _ _); go_must (refine wpList_alloc_row rfl 23 rfl (.agg (zbs 32)) zero23 ?_; intro w2 h1 z1 g1; have H2 := Lib.hid h1; have Z2 := Lib.hid z1; have G2 := Lib.hid g1; clear h1 z1 g1)))
  have R : Hid (NAt w2 w.heap.size a) := NAt.grown ⟨23, H1.out⟩ G2.out (by simp)
  have HB : Hid (Below w.heap.size w w2) := (below_of_grownBy G1.out).trans ((below_of_grownBy G2.out).mono (by have := Z1.out; omega))
  have Z : Hid (ZAt w2 (w.heap.size + 1)) := by
    have h := H2.out
    rw [Z1.out] at h
    exact h
  rw [show w1.heap.size = w.heap.size + 1 from Z1.out]
  have HLTwheapsize : Hid (w.heap.size < w2.heap.size) := R.out.lt
  have HLTwheapsizep1 : Hid (w.heap.size + 1 < w2.heap.size) := Z.out.lt
  clear H1 Z1 G1 H2 Z2 G2
  refine region_split (fun a' W => NAt W (w.heap.size + 1) n ∧ Below w.heap.size w W ∧ a' = ⟨#[vN a, .pointer (some ⟨w.heap.size, 0, none⟩), .pointer (some ⟨w.heap.size + 1, 0, none⟩), vN a, vN e, vN n], []⟩) ?_ ?_
  · refine startW (fun j => j == 3) (w2.heap.size) (by kernel_rfl) ?_
    obtain ⟨D24, hD24⟩ : ∃ D, D = w2.drew := ⟨_, rfl⟩
    rw [← hD24]
    have HLD24 : Hid (w2.heap.size ≤ D24.heap.size) := Lib.hid (by rw [hD24]; exact Nat.le_refl _)
    have HBD24 : Hid (Below w.heap.size w D24) := Lib.hid (by rw [hD24]; exact below_drewN' HB.out 1)
    have R0D24 : Hid (NAt D24 (w.heap.size) a) := Lib.hid (by rw [hD24]; exact R.out)
    have Z0D24 : Hid (ZAt D24 (w.heap.size + 1)) := Lib.hid (by rw [hD24]; exact Z.out)
    clear hD24
    refine takeT (i := 0) (oi := { dst := some 3, op := Op.load 23 (Operand.tmp 1), type := 23, pos := "ref.go:175", after := #[], guard := none }) (vN a) rfl (by kernel_rfl) (by kernel_rfl) (by kernel_rfl) (by kernel_rfl) (by kernel_rfl) (fun _ _ _ h => nomatch h.1) (by rfl) (fun w' hk => exec_load23 (.tmp 1) rfl (w.heap.size) a rfl (R0D24.out.below hk HLTwheapsize.out)) ?_
    simp only [Act.put, List.setIfInBounds_toArray, List.set_cons_zero, List.set_cons_succ]
    refine callW (i := 1) (oi := { dst := some 4, op := Op.call { callee := Callee.value (Operand.func 64), args := #[Operand.const (Value.int IntKind.i64 2), Operand.const (Value.int IntKind.i64 0)], argTypes := #[3, 3] }, type := 23, pos := "ref.go:175", after := #[], guard := none }) rfl (by kernel_rfl) (by rfl) (exec_callL 64 [.const (.int .i64 2), .const (.int .i64 0)] #[3, 3] rfl [.int .i64 2, .int .i64 0] rfl (CG64 _)) ((HO.out D24).mono ?_)
    rintro eW25 W25 ⟨rfl, hbW25⟩
    refine ⟨_, rfl, fun _ => hbW25.mono HLD24.out, ?_⟩
    have HBW25 : Hid (Below w.heap.size w W25) := Lib.hid (HBD24.out.trans (hbW25.mono HBD24.out.size))
    have HLW25 : Hid (w2.heap.size ≤ W25.heap.size) := Lib.hid (Nat.le_trans HLD24.out hbW25.size)
    have R0D24_W25 := Lib.hid (R0D24.out.keep hbW25)
    have Z0D24_W25 := Lib.hid (Z0D24.out.keep hbW25)
    clear hbW25 HBD24 HLD24 R0D24 Z0D24
    simp only [Act.put, List.setIfInBounds_toArray, List.set_cons_zero, List.set_cons_succ]
    refine callW (i := 2) (oi := { dst := some 5, op := Op.call { callee := Callee.value (Operand.func 28), args := #[Operand.tmp 3, Operand.tmp 4], argTypes := #[23, 23] }, type := 23, pos := "ref.go:175", after := #[{ on := 0, ground := Ground.data }, { on := 1, ground := Ground.data }, { on := 1, ground := Ground.chain }], guard := none }) rfl (by kernel_rfl) (by rfl) (exec_callL 28 [.tmp 3, .tmp 4] #[23, 23] rfl [vN a, vN e] rfl (CG28 _)) ((HP.out W25).mono ?_)
    rintro eW26 W26 ⟨rfl, hbW26⟩
    refine ⟨_, rfl, fun _ => hbW26.mono HLW25.out, ?_⟩
    have HBW26 : Hid (Below w.heap.size w W26) := Lib.hid (HBW25.out.trans (hbW26.mono HBW25.out.size))
    have HLW26 : Hid (w2.heap.size ≤ W26.heap.size) := Lib.hid (Nat.le_trans HLW25.out hbW26.size)
    have R0D24_W26 := Lib.hid (R0D24_W25.out.keep hbW26)
    have Z0D24_W26 := Lib.hid (Z0D24_W25.out.keep hbW26)
    clear hbW26 HBW25 HLW25 R0D24_W25 Z0D24_W25
    simp only [Act.put, List.setIfInBounds_toArray, List.set_cons_zero, List.set_cons_succ]
    refine storeW_all (i := 3) (oi := { dst := none, op := Op.store 23 (Operand.tmp 2) (Operand.tmp 5), type := 0, pos := "ref.go:175", after := #[{ on := 2, ground := Ground.data }, { on := 2, ground := Ground.chain }, { on := 0, ground := Ground.phase }, { on := 1, ground := Ground.phase }, { on := 2, ground := Ground.phase }], guard := none }) rfl (by kernel_rfl) (by rfl) 23 (.tmp 2) (.tmp 5) rfl (w.heap.size + 1) rfl (bcs (enc n)).toArray rfl 23 _ Z0D24_W26.out (by rw [List.size_toArray, bcs_enc_len]; exact size23) (by rw [List.size_toArray, bcs_enc_len]; rfl) (bcs_one _) rfl ?_
    intro W27 hhW27 hgW27 hzW27
    simp only [Act.put, List.setIfInBounds_toArray, List.set_cons_zero, List.set_cons_succ]
    have R0D24_W27 := Lib.hid (R0D24_W26.out.grown hgW27 (by simp))
    have Swheapsizep1_W27 : Hid (NAt W27 (w.heap.size + 1) n) := Lib.hid ⟨23, hhW27⟩
    have HBW27 : Hid (Below w.heap.size w W27) := Lib.hid (HBW26.out.grown hgW27 HBW26.out.size (fun r hr => by injection hr with hr; omega))
    have HLW27 : Hid (w2.heap.size ≤ W27.heap.size) := Lib.hid (Nat.le_trans HLW26.out hgW27.size)
    clear hhW27 hgW27 hzW27 HBW26 HLW26 R0D24_W26 Z0D24_W26
    refine doneW (by kernel_rfl) ⟨rfl, ?_⟩ _
    exact ⟨Swheapsizep1_W27.out, HBW27.out, rfl⟩
  rintro a' W ⟨⟨t, ht⟩, hb, rfl⟩
  have HH := Lib.hid ht
  have HBel := Lib.hid hb
  clear ht hb R HB Z HLTwheapsize HLTwheapsizep1 HO HP
  go_wp2
  refine bodyPost_ret (results_cell_row rfl _ _ (w.heap.size + 1) t (bcs (enc n)).toArray _ _ rfl HH.out under23 rfl (by rw [List.size_toArray, bcs_enc_len]; exact size23)) rfl ?_
  exact ⟨rfl, HBel.out⟩

set_option maxHeartbeats 400000 in
theorem rCanon_core (a r : Nat) (b : Bool) (w : World) (H11 : Hid (∀ w, Calls Try.prog 14 #[vN a] w (Gives (vN r) w))) (HE : Hid (∀ w, (Op.equalIn 10000 23 (vN r) (vN a)).run Try.prog w = .ok b w)) :
    Calls Try.prog 16 #[vN a] w (Gives (.bool b) w) := by
  go_enter Try.func16, Try.ntmps16
  go_wp2_with ((with_reducible show wpList _ _ _ (⟨some 1, .box 23 (.tmp 0), _, _, _, _⟩ :: _) _ _); go_must (refine wpList_box_row rfl 23 (.tmp 0) rfl (bcs (enc a)).toArray rfl ?_; intro w1 h1 z1 g1; have H1 := Lib.hid h1; have Z1 := Lib.hid z1; have G1 := Lib.hid g1; clear h1 z1 g1))
  have R : Hid (NAt w1 w.heap.size a) := ⟨23, H1.out⟩
  have HB : Hid (Below w.heap.size w w1) := below_of_grownBy G1.out
  clear H1 Z1 G1
  refine region_wq (by kernel_rfl) (by kernel_rfl) ?_
  refine wq_load rfl (.tmp 1) rfl (w.heap.size) a rfl R.out ?_
  simp only [Act.put, List.setIfInBounds_toArray, List.set_cons_zero, List.set_cons_succ]
  refine wq_call rfl 14 [.tmp 3] #[23] rfl [vN a] rfl (CG14 _) (vN r) H11.out ?_
  simp only [Act.put, List.setIfInBounds_toArray, List.set_cons_zero, List.set_cons_succ]
  refine wq_load rfl (.tmp 1) rfl (w.heap.size) a rfl R.out ?_
  simp only [Act.put, List.setIfInBounds_toArray, List.set_cons_zero, List.set_cons_succ]
  refine wq_eq rfl (.tmp 4) (.tmp 5) rfl r a rfl rfl b HE.out ?_
  simp only [Act.put, List.setIfInBounds_toArray, List.set_cons_zero, List.set_cons_succ]
  refine wq_assign rfl (.tmp 6) rfl (.bool b) rfl ?_
  simp only [Act.put, List.setIfInBounds_toArray, List.set_cons_zero, List.set_cons_succ]
  refine wq_nil ?_
  intro w2 hb
  have HB2 : Hid (Below w.heap.size w w2) := HB.out.trans (hb.mono HB.out.size)
  clear hb HB
  go_wp2
  go_ret
  exact ⟨rfl, HB2.out⟩

set_option maxHeartbeats 400000 in
theorem rSame_core (a b r s : Nat) (c : Bool) (w : World) (H1 : Hid (∀ w, Calls Try.prog 14 #[vN a] w (Gives (vN r) w))) (H2 : Hid (∀ w, Calls Try.prog 14 #[vN b] w (Gives (vN s) w))) (HE : Hid (∀ w, (Op.equalIn 10000 23 (vN r) (vN s)).run Try.prog w = .ok c w)) :
    Calls Try.prog 34 #[vN a, vN b] w (Gives (.bool c) w) := by
  go_enter Try.func34, Try.ntmps34
  go_wp2_with (first | ((with_reducible show wpList _ _ _ (⟨some 2, .box 23 (.tmp 0), _, _, _, _⟩ :: _) _ _); go_must (refine wpList_box_row rfl 23 (.tmp 0) rfl (bcs (enc a)).toArray rfl ?_; intro w3 h1 z1 g1; have H3 := Lib.hid h1; have Z3 := Lib.hid z1; have G3 := Lib.hid g1; clear h1 z1 g1)) | ((with_reducible show wpList _ _ _ (⟨some 3, .box 23 (.tmp 1), _, _, _, _⟩ :: _) _ _); go_must (refine wpList_box_row rfl 23 (.tmp 1) rfl (bcs (enc b)).toArray rfl ?_; intro w4 h1 z1 g1; have H4 := Lib.hid h1; have Z4 := Lib.hid z1; have G4 := Lib.hid g1; clear h1 z1 g1)))
  have R : Hid (NAt w4 w.heap.size a) := NAt.grown ⟨23, H3.out⟩ G4.out (by simp)
  have S : Hid (NAt w4 (w.heap.size + 1) b) := by
    have h := H4.out
    rw [Z3.out] at h
    exact ⟨23, h⟩
  have HB : Hid (Below w.heap.size w w4) := (below_of_grownBy G3.out).trans ((below_of_grownBy G4.out).mono (by have := Z3.out; omega))
  rw [show w3.heap.size = w.heap.size + 1 from Z3.out]
  clear H3 Z3 G3 H4 Z4 G4
  refine region_wq (by kernel_rfl) (by kernel_rfl) ?_
  refine wq_load rfl (.tmp 2) rfl (w.heap.size) a rfl R.out ?_
  simp only [Act.put, List.setIfInBounds_toArray, List.set_cons_zero, List.set_cons_succ]
  refine wq_call rfl 14 [.tmp 5] #[23] rfl [vN a] rfl (CG14 _) (vN r) H1.out ?_
  simp only [Act.put, List.setIfInBounds_toArray, List.set_cons_zero, List.set_cons_succ]
  refine wq_load rfl (.tmp 3) rfl (w.heap.size + 1) b rfl S.out ?_
  simp only [Act.put, List.setIfInBounds_toArray, List.set_cons_zero, List.set_cons_succ]
  refine wq_call rfl 14 [.tmp 7] #[23] rfl [vN b] rfl (CG14 _) (vN s) H2.out ?_
  simp only [Act.put, List.setIfInBounds_toArray, List.set_cons_zero, List.set_cons_succ]
  refine wq_eq rfl (.tmp 6) (.tmp 8) rfl r s rfl rfl c HE.out ?_
  simp only [Act.put, List.setIfInBounds_toArray, List.set_cons_zero, List.set_cons_succ]
  refine wq_assign rfl (.tmp 9) rfl (.bool c) rfl ?_
  simp only [Act.put, List.setIfInBounds_toArray, List.set_cons_zero, List.set_cons_succ]
  refine wq_nil ?_
  intro w2 hb
  have HB2 : Hid (Below w.heap.size w w2) := HB.out.trans (hb.mono HB.out.size)
  clear hb HB
  go_wp2
  go_ret
  exact ⟨rfl, HB2.out⟩

set_option maxHeartbeats 400000 in
theorem rNeg_core (a r : Nat) (w : World) (H25 : Hid (∀ w, Calls Try.prog 22 #[vN 0, vN a] w (Gives (vN r) w))) :
    Calls Try.prog 24 #[vN a] w (Gives (vN r) w) := by
  go_enter Try.func24, Try.ntmps24
  go_wp2_with (first | ((with_reducible show wpList _ _ _ (⟨some 1, .box 23 (.tmp 0), _, _, _, _⟩ :: _) _ _); go_must (refine wpList_box_row rfl 23 (.tmp 0) rfl (bcs (enc a)).toArray rfl ?_; intro w1 h1 z1 g1; have H1 := Lib.hid h1; have Z1 := Lib.hid z1; have G1 := Lib.hid g1; clear h1 z1 g1)) | ((with_reducible show wpList _ _ _ (⟨some 2, .alloc 23, _, _, _, _⟩ :: _) _ _); go_must (refine wpList_alloc_row rfl 23 rfl (.agg (zbs 32)) zero23 ?_; intro w2 h1 z1 g1; have H2 := Lib.hid h1; have Z2 := Lib.hid z1; have G2 := Lib.hid g1; clear h1 z1 g1; have R : Hid (NAt w2 w.heap.size a) := NAt.grown ⟨23, H1.out⟩ G2.out (by simp))) | ((with_reducible show wpList _ _ _ (⟨_, .build 23 _, _, _, _, _⟩ :: _) _ _); go_must (refine wpList_exec rfl (vN 0) (exec_build0 rfl) ?_)) | ((with_reducible show wpList _ _ _ (⟨_, .load 23 (.tmp 1), _, _, _, _⟩ :: _) _ _); go_must (refine wpList_exec rfl (vN a) (exec_load23 (.tmp 1) rfl (w.heap.size) a rfl R.out) ?_)))
  have HB : Hid (Below w.heap.size w w2) := (below_of_grownBy G1.out).trans ((below_of_grownBy G2.out).mono (by have := Z1.out; omega))
  have HR2 : Hid (w2.heap[w.heap.size + 1]? = some (.cells (zbs 32) 23 (0, 0))) := by
    have h := H2.out
    rw [Z1.out] at h
    exact h
  rw [show w1.heap.size = w.heap.size + 1 from Z1.out]
  clear H1 Z1 G1 H2 Z2 G2 R
  refine (H25.out _).mono ?_
  rintro e x4 ⟨rfl, hb⟩
  have HRow : Hid (x4.heap[w.heap.size + 1]? = some (.cells (zbs 32) 23 (0, 0))) := (hb.block _ (Array.getElem?_eq_some_iff.1 HR2.out).1).trans HR2.out
  have HBel : Hid (Below w.heap.size w x4) := HB.out.trans (hb.mono HB.out.size)
  clear hb HB HR2 H25
  go_wp2_with ((with_reducible show wpList _ _ _ (⟨none, .store 23 (.tmp 2) (.tmp 5), _, _, _, _⟩ :: _) _ _); go_must (refine wpList_store_all rfl 23 (.tmp 2) (.tmp 5) rfl (w.heap.size + 1) rfl (bcs (enc r)).toArray rfl 23 _ HRow.out (by rw [List.size_toArray, bcs_enc_len]; exact size23) (by rw [List.size_toArray, bcs_enc_len]; rfl) (bcs_one _) ?_; intro x5 hh hg hz; have HH := Lib.hid hh; have HG := Lib.hid hg; clear hh hg hz))
  refine bodyPost_ret (results_cell_row rfl _ _ (w.heap.size + 1) 23 (bcs (enc r)).toArray _ _ rfl HH.out under23 rfl (by rw [List.size_toArray, bcs_enc_len]; exact size23)) rfl ?_
  exact ⟨rfl, HBel.out.grown HG.out HBel.out.size (fun r hr => by injection hr; omega)⟩

set_option maxHeartbeats 400000 in
theorem rRest_core (a r : Nat) (z : List Nat) (w : World) (HO : Hid (∀ w, Calls Try.prog 68 #[vN a] w (Gives (.agg (ics z).toArray) w))) (HC : Hid (∀ w, Calls Try.prog 67 #[.agg (ics z).toArray] w (Gives (vN r) w))) :
    Calls Try.prog 14 #[vN a] w (Gives (vN r) w) := by
  go_enter Try.func14, Try.ntmps14
  go_wp2_with (first | ((with_reducible show wpList _ _ _ (⟨some 1, .box 23 (.tmp 0), _, _, _, _⟩ :: _) _ _); go_must (refine wpList_box_row rfl 23 (.tmp 0) rfl (bcs (enc a)).toArray rfl ?_; intro w1 h1 z1 g1; have H1 := Lib.hid h1; have Z1 := Lib.hid z1; have G1 := Lib.hid g1; clear h1 z1 g1)) | ((with_reducible show wpList _ _ _ (⟨some 2, .alloc 23, _, _, _, _⟩ :: _) _ _); go_must (refine wpList_alloc_row rfl 23 rfl (.agg (zbs 32)) zero23 ?_; intro w2 h1 z1 g1; have H2 := Lib.hid h1; have Z2 := Lib.hid z1; have G2 := Lib.hid g1; clear h1 z1 g1; have R : Hid (NAt w2 w.heap.size a) := NAt.grown ⟨23, H1.out⟩ G2.out (by simp))) | ((with_reducible show wpList _ _ _ (⟨_, .load 23 (.tmp 1), _, _, _, _⟩ :: _) _ _); go_must (refine wpList_exec rfl (vN a) (exec_load23 (.tmp 1) rfl (w.heap.size) a rfl R.out) ?_)))
  have HB : Hid (Below w.heap.size w w2) := (below_of_grownBy G1.out).trans ((below_of_grownBy G2.out).mono (by have := Z1.out; omega))
  have HR2 : Hid (ZAt w2 (w.heap.size + 1)) := by
    have h := H2.out
    rw [Z1.out] at h
    exact h
  rw [show w1.heap.size = w.heap.size + 1 from Z1.out]
  clear H1 Z1 G1 H2 Z2 G2 R
  refine (HO.out _).mono ?_
  rintro e x3 ⟨rfl, hb⟩
  have HR3 := Lib.hid (HR2.out.keep hb)
  have HB3 := Lib.hid (HB.out.trans (hb.mono HB.out.size))
  clear hb HB HR2 HO
  go_wp2_with fail
  refine (HC.out _).mono ?_
  rintro e x4 ⟨rfl, hb⟩
  have HRow : Hid (x4.heap[w.heap.size + 1]? = some (.cells (zbs 32) 23 (0, 0))) := HR3.out.keep hb
  have HBel := Lib.hid (HB3.out.trans (hb.mono HB3.out.size))
  clear hb HB3 HR3 HC
  go_wp2_with ((with_reducible show wpList _ _ _ (⟨none, .store 23 (.tmp 2) (.tmp 5), _, _, _, _⟩ :: _) _ _); go_must (refine wpList_store_all rfl 23 (.tmp 2) (.tmp 5) rfl (w.heap.size + 1) rfl (bcs (enc r)).toArray rfl 23 _ HRow.out (by rw [List.size_toArray, bcs_enc_len]; exact size23) (by rw [List.size_toArray, bcs_enc_len]; rfl) (bcs_one _) ?_; intro x5 hh hg hz; have HH := Lib.hid hh; have HG := Lib.hid hg; clear hh hg hz))
  refine bodyPost_ret (results_cell_row rfl _ _ (w.heap.size + 1) 23 (bcs (enc r)).toArray _ _ rfl HH.out under23 rfl (by rw [List.size_toArray, bcs_enc_len]; exact size23)) rfl ?_
  exact ⟨rfl, HBel.out.grown HG.out HBel.out.size (fun r hr => by injection hr; omega)⟩

set_option maxHeartbeats 400000 in
theorem rOdd_core (a r : Nat) (b : Bool) (w : World) (H11 : Hid (∀ w, Calls Try.prog 14 #[vN a] w (Gives (vN r) w))) (HI : Hid (∀ w, (Instr.index 23 (vN r) (.int .i64 0)).run Try.prog w = .ok (.int .u8 ((r % 256 : Nat) : Int)) w))
    (HE : Hid (((((r % 256 : Nat) : Int)).tmod 2 == 1) = b)) :
    Calls Try.prog 32 #[vN a] w (Gives (.bool b) w) := by
  have hlt : r % 256 < 256 := Nat.mod_lt _ (by omega)
  generalize r % 256 = x at *
  go_enter Try.func32, Try.ntmps32
  go_wp2_with (first | ((with_reducible show wpList _ _ _ (⟨some 1, .box 23 (.tmp 0), _, _, _, _⟩ :: _) _ _); go_must (refine wpList_box_row rfl 23 (.tmp 0) rfl (bcs (enc a)).toArray rfl ?_; intro w1 h1 z1 g1; have H1 := Lib.hid h1; have Z1 := Lib.hid z1; have G1 := Lib.hid g1; clear h1 z1 g1; have R : Hid (NAt w1 w.heap.size a) := ⟨23, H1.out⟩)) | ((with_reducible show wpList _ _ _ (⟨_, .load 23 (.tmp 1), _, _, _, _⟩ :: _) _ _); go_must (refine wpList_exec rfl (vN a) (exec_load23 (.tmp 1) rfl (w.heap.size) a rfl R.out) ?_)))
  have HB : Hid (Below w.heap.size w w1) := below_of_grownBy G1.out
  clear H1 Z1 G1 R
  refine (H11.out _).mono ?_
  rintro e x4 ⟨rfl, hb⟩
  have HBel : Hid (Below w.heap.size w x4) := HB.out.trans (hb.mono HB.out.size)
  clear hb HB H11
  go_wp2_with ((with_reducible show wpList _ _ _ (⟨_, .index 23 (.tmp 4) _, _, _, _, _⟩ :: _) _ _); go_must (refine wpList_exec rfl (.int .u8 (x : Int)) (exec_index0 _ _ rfl rfl (HI.out _)) ?_))
  go_ret
  refine ⟨?_, HBel.out⟩
  exact congrArg (fun x => Ending.returned (.bool x)) HE.out
end Go.Proofs.Ytgdimnbdnepbgaa
/- The reference's Of and shifted. No statement is proved here. -/
namespace Go.Proofs.Ytgdimnbdnepbgaa
open Go.RowKit
set_option linter.unusedVariables false
set_option maxRecDepth 40000
set_option linter.unusedSimpArgs false

/-- The memory of Of and shifted. -/
structure Sz (w : World) (l : List UInt8) (w' : World) : Prop where
  res : w'.heap[w.heap.size]? = some (.cells (zbs 32) 23 (0, 0))
  b : BAt w' (w.heap.size + 1) l
  bel : Below w.heap.size w w'
theorem Sz.set {w : World} {l l' : List UInt8} {w' w'' : World} {t : TypeId} (h : Sz w l w') (hg : w'.grownBy w'' (some (w.heap.size + 1))) (hl : l'.length = 32) (hh : w''.heap[w.heap.size + 1]? = some (.cells (bcs l').toArray t (0, 0))) : Sz w l' w'' :=
  ⟨(hg.block _ (Array.getElem?_eq_some_iff.1 h.res).1 (by simp)).trans h.res, ⟨hl, t, hh⟩, h.bel.grown hg h.bel.size (fun r hr => by injection hr; omega)⟩
theorem Sz.start {w w1 w2 : World} (h1 : w1.heap[w.heap.size]? = some (.cells (zbs 32) 23 (0, 0))) (z1 : w1.heap.size = w.heap.size + 1) (g1 : w.grownBy w1 none)
    (h2 : w2.heap[w1.heap.size]? = some (.cells (zbs 32) 23 (0, 0))) (g2 : w1.grownBy w2 none) : Sz w (List.replicate 32 0) w2 := by
  have b1 := below_of_grownBy g1
  have b2 := below_of_grownBy g2
  rw [z1] at h2 b2
  exact ⟨(b2.block _ (by omega)).trans h1, ⟨rfl, 23, h2⟩, b1.trans (b2.mono (by omega))⟩
theorem bytes_eq (l : List UInt8) (u : Nat) (hu : u < TT) (hl : l.length = 32) (h : ∀ j, j < 32 → (l.getD j 0).toNat = u / 256 ^ j % 256) : l = enc u := by
  have hv : leb (enc u) = u := by rw [← nv_leb _ (enc_len u)]; exact nv_enc u hu
  apply List.ext_getElem
  · rw [hl, enc_len]
  · intro i h1 h2
    have e1 : l.getD i 0 = l[i] := by rw [List.getD_eq_getElem?_getD, List.getElem?_eq_getElem h1]; rfl
    have e2 : (enc u).getD i 0 = (enc u)[i] := by rw [List.getD_eq_getElem?_getD, List.getElem?_eq_getElem h2]; rfl
    apply UInt8.toNat_inj.1
    rw [← e1, ← e2, h i (by omega), ← leb_byte, hv]
theorem enc_byte (u : Nat) (hu : u < TT) (j : Nat) : ((enc u).getD j 0).toNat = u / 256 ^ j % 256 := by
  rw [← leb_byte, ← nv_leb _ (enc_len u), nv_enc u hu]
theorem getD_set_eq8 (l : List UInt8) (i : Nat) (b : UInt8) (h : i < l.length) : (l.set i b).getD i 0 = b := by
  rw [List.getD_eq_getElem?_getD, List.getElem?_set_self h]; rfl
theorem getD_set_ne8 (l : List UInt8) (i j : Nat) (b : UInt8) (h : i ≠ j) : (l.set i b).getD j 0 = l.getD j 0 := by
  rw [List.getD_eq_getElem?_getD, List.getElem?_set_ne h, ← List.getD_eq_getElem?_getD]

set_option maxHeartbeats 2000000 in
theorem rOf_core (x : Nat) (hx : x < 18446744073709551616) (w : World) : Calls Try.prog 18 #[.int .u64 x] w (Gives (vN x) w) := by
  have HX := Lib.hid hx
  clear hx
  go_enter Try.func18, Try.ntmps18
  go_wp2_with (first | ((with_reducible show wpList _ _ _ (⟨some 2, .alloc 23, _, _, _, _⟩ :: _) _ _); go_must (refine wpList_alloc_row rfl 23 rfl (.agg (zbs 32)) zero23 ?_; intro w1 h1 z1 g1; have H1 := Lib.hid h1; have Z1 := Lib.hid z1; have G1 := Lib.hid g1; clear h1 z1 g1)) | ((with_reducible show wpList _ _ _ (⟨some 3, .alloc 23, _, _, _, _⟩ :: _) _ _); go_must (refine wpList_alloc_row rfl 23 rfl (.agg (zbs 32)) zero23 ?_; intro w2 h1 z1 g1; have H2 := Lib.hid h1; have G2 := Lib.hid g1; clear h1 z1 g1)))
  have S : Hid (Sz w (List.replicate 32 0) w2) := Sz.start H1.out Z1.out G1.out H2.out G2.out
  rw [show w1.heap.size = w.heap.size + 1 from Z1.out]
  clear H1 Z1 G1 H2 G2
  go_loopw [4] (fun i wr => ∃ n : Nat, ∃ l : List UInt8, n ≤ 8 ∧ i = .int .i64 n ∧ leb l = x % 256 ^ n ∧ Sz w l wr) (fun i _ => 8 - (intOf i).toNat)
  case atStart => exact ⟨0, _, by omega, rfl, (show leb (List.replicate 32 0) = x % 256 ^ 0 by rw [Nat.pow_zero, Nat.mod_one]; rfl), S.out⟩
  case round =>
    obtain ⟨n, l, hn, rfl, hv, hp⟩ := hrel
    have H := Lib.hid hp
    have HVL := Lib.hid hv
    clear hp S hv
    have HBL : Hid (l.length = 32) := H.out.b.1
    obtain ⟨t, ht⟩ := H.out.b.2
    have HT := Lib.hid ht
    clear ht
    by_cases hlt : n < 8
    · have hni : (n : Int) < 8 := by omega
      go_wp2_with (first | ((with_reducible show wpList _ _ _ (⟨none, .store 5 (.tmp 16) (.tmp 15), _, _, _, _⟩ :: _) _ _); go_must (refine wpList_store_one rfl 5 (.tmp 16) (.tmp 15) rfl (w.heap.size + 1) n rfl .u8 _ rfl t _ HT.out size5 (by simp only [List.size_toArray, bcs_len]; have := HBL.out; omega) ?_; intro x5 hh hg hz; have HH := Lib.hid hh; have HG := Lib.hid hg; clear hh hg hz)) | fail)
      have hh := HH.out
      have h0 : (l.getD n 0).toNat = 0 := by
        rw [← leb_byte, HVL.out, Nat.div_eq_of_lt (Nat.mod_lt _ (Nat.pow_pos (by decide)))]
      have hs := leb_set l n (UInt8.ofNat (x / 256 ^ n)) (by have := HBL.out; omega)
      rw [h0, Nat.mul_zero, Nat.add_zero, of_byte, HVL.out, ← Nat.mod_pow_succ] at hs
      have e : ((x : Int) / 2 ^ (8 * n)) % 256 = ((x / 256 ^ n % 256 : Nat) : Int) := by
        rw [show ((2 : Int) ^ (8 * n)) = ((256 ^ n : Nat) : Int) from by rw [Int.pow_mul]; simp]
        simp
      have e2 : Value.int IntKind.u8 (((x : Int) / 2 ^ (8 * n)) % 256) = bc (UInt8.ofNat (x / 256 ^ n)) := by rw [e]; unfold bc; rw [of_byte]
      rw [e2, bcs_put] at hh
      exact ⟨⟨n + 1, _, by omega, by go_num, hs, H.out.set HG.out (by rw [List.length_set]; exact HBL.out) hh⟩, by simp [intOf]; omega⟩
    · obtain rfl : n = 8 := by omega
      have hl : l = enc x := by
        rw [leb_inj l HBL.out, HVL.out, Nat.mod_eq_of_lt HX.out]
      have HL := Lib.hid hl
      clear HVL hl
      go_wp2_with (first | ((with_reducible show wpList _ _ _ (⟨_, .load 23 (.tmp 3), _, _, _, _⟩ :: _) _ _); go_must (refine wpList_load_arr rfl 23 (.tmp 3) rfl (w.heap.size + 1) 0 rfl (bcs l) (fun i u hu => by rw [Nat.zero_add]; exact row_cells HT.out i u (by simpa using hu)) _ under23 rfl (by rw [bcs_len, HBL.out]; exact size23) ?_)) | ((with_reducible show wpList _ _ _ (⟨none, .store 23 (.tmp 2) (.tmp 17), _, _, _, _⟩ :: _) _ _); go_must (refine wpList_store_all rfl 23 (.tmp 2) (.tmp 17) rfl (w.heap.size) rfl (bcs l).toArray rfl 23 _ H.out.res (by rw [List.size_toArray, bcs_len, HBL.out]; exact size23) (by rw [List.size_toArray, bcs_len, HBL.out]; rfl) (bcs_one _) ?_; intro x5 hh hg hz; have HH := Lib.hid hh; have HG := Lib.hid hg; clear hh hg hz)) | fail)
      refine bodyPost_ret (results_cell_row rfl _ _ (w.heap.size) 23 (bcs l).toArray _ _ rfl HH.out under23 rfl (by rw [List.size_toArray, bcs_len, HBL.out]; exact size23)) rfl ?_
      exact ⟨by rw [HL.out]; rfl, H.out.bel.grown HG.out H.out.bel.size (fun r hr => by injection hr; omega)⟩
end Go.Proofs.Ytgdimnbdnepbgaa
/- The reference's shifted. No statement is proved here. -/
namespace Go.Proofs.Ytgdimnbdnepbgaa
open Go.RowKit
set_option linter.unusedVariables false
set_option maxRecDepth 40000
set_option linter.unusedSimpArgs false

theorem half_step (v i : Nat) : v / 2 / 256 ^ i % 256 = v / 256 ^ i % 256 / 2 + 128 * (v / 256 ^ (i + 1) % 256 % 2) := by
  rw [Nat.pow_succ, ← Nat.div_div_eq_div_mul, Nat.div_div_eq_div_mul, Nat.mul_comm, ← Nat.div_div_eq_div_mul]
  omega
theorem half_last (v : Nat) (hv : v < TT) : v / 2 / 256 ^ 31 % 256 = v / 256 ^ 31 % 256 / 2 := by
  unfold TT at hv
  rw [Nat.div_div_eq_div_mul, Nat.mul_comm, ← Nat.div_div_eq_div_mul]
  have : v / 256 ^ 31 < 256 := by omega
  omega
/-- The bytes below i are halved. -/
def Mix (v i : Nat) (l : List UInt8) : Prop := ∀ j, j < 32 → (l.getD j 0).toNat = (if j < i then v / 2 else v) / 256 ^ j % 256
theorem Mix.next {v i : Nat} {l : List UInt8} (h : Mix v i l) (hl : l.length = 32) (hi : i < 32) (c : Nat) (hc : c % 256 = v / 2 / 256 ^ i % 256) : Mix v (i + 1) (l.set i (UInt8.ofNat c)) := by
  intro j hj
  by_cases e : i = j
  · subst e
    rw [getD_set_eq8 _ _ _ (by omega), of_byte, if_pos (by omega), hc]
  · rw [getD_set_ne8 _ _ _ _ e, h j hj]
    by_cases e2 : j < i
    · rw [if_pos e2, if_pos (by omega)]
    · rw [if_neg e2, if_neg (by omega)]

set_option maxHeartbeats 2000000 in
theorem shifted_core (n k : Nat) (V : Nat) (hn : n < 200) (hk : k < 10) (HV : Hid (UInt8.ofNat (237 - n) :: (List.replicate 30 255 ++ [127]) = enc V)) (HT : Hid (V < TT)) (w : World) :
    Calls Try.prog 64 #[.int .i64 n, .int .i64 k] w (Gives (vN (V / 2 ^ k)) w) := by
  have hni : (n : Int) < 200 := by omega
  have hki : (k : Int) < 10 := by omega
  go_enter Try.func64, Try.ntmps64
  go_wp2_with (first | ((with_reducible show wpList _ _ _ (⟨some 4, .alloc 23, _, _, _, _⟩ :: _) _ _); go_must (refine wpList_alloc_row rfl 23 rfl (.agg (zbs 32)) zero23 ?_; intro w1 h1 z1 g1; have H1 := Lib.hid h1; have Z1 := Lib.hid z1; have G1 := Lib.hid g1; clear h1 z1 g1)) | ((with_reducible show wpList _ _ _ (⟨some 5, .alloc 23, _, _, _, _⟩ :: _) _ _); go_must (refine wpList_alloc_row rfl 23 rfl (.agg (zbs 32)) zero23 ?_; intro w2 h1 z1 g1; have H2 := Lib.hid h1; have G2 := Lib.hid g1; clear h1 z1 g1)))
  have S : Hid (Sz w (List.replicate 32 0) w2) := Sz.start H1.out Z1.out G1.out H2.out G2.out
  rw [show w1.heap.size = w.heap.size + 1 from Z1.out]
  clear H1 Z1 G1 H2 G2
  go_loopw [6] (fun i wr => ∃ m : Nat, ∃ l : List UInt8, m ≤ 32 ∧ i = .int .i64 m ∧ (∀ j, j < m → l.getD j 0 = 255) ∧ Sz w l wr) (fun i _ => 32 - (intOf i).toNat)
  case atStart => exact ⟨0, _, by omega, rfl, fun j hj => absurd hj (by omega), S.out⟩
  case round =>
    obtain ⟨m, l, hm, rfl, hv, hp⟩ := hrel
    have H := Lib.hid hp
    have HVL := Lib.hid hv
    clear hp S hv
    have HBL : Hid (l.length = 32) := H.out.b.1
    obtain ⟨t, ht⟩ := H.out.b.2
    have HTT := Lib.hid ht
    clear ht
    by_cases hlt : m < 32
    · have hmi : (m : Int) < 32 := by omega
      go_wp2_with (first | ((with_reducible show wpList _ _ _ (⟨none, .store 5 (.tmp 13) _, _, _, _, _⟩ :: _) _ _); go_must (refine wpList_store_one rfl 5 (.tmp 13) (.const (.int .u8 255)) rfl (w.heap.size + 1) m rfl .u8 _ rfl t _ HTT.out size5 (by simp only [List.size_toArray, bcs_len]; have := HBL.out; omega) ?_; intro x5 hh hg hz; have HH := Lib.hid hh; have HG := Lib.hid hg; clear hh hg hz)) | fail)
      have hh := HH.out
      rw [show Value.int IntKind.u8 255 = bc 255 from rfl, bcs_put] at hh
      refine ⟨⟨m + 1, _, by omega, by go_num, fun j hj => ?_, H.out.set HG.out (by rw [List.length_set]; exact HBL.out) hh⟩, by simp [intOf]; omega⟩
      by_cases e : m = j
      · subst e
        exact getD_set_eq8 _ _ _ (by have := HBL.out; omega)
      · rw [getD_set_ne8 _ _ _ _ e]
        exact HVL.out j (by omega)
    · obtain rfl : m = 32 := by omega
      have hsub : IntKind.u8.wrap (237 - (n : Int)) = ((237 - n : Nat) : Int) := by
        show (237 - (n : Int)) % 256 = _
        omega
      go_wp2_with (first | ((with_reducible show wpList _ _ _ (⟨none, .store 5 (.tmp 17) (.tmp 16), _, _, _, _⟩ :: _) _ _); go_must (refine wpList_store_one rfl 5 (.tmp 17) (.tmp 16) rfl (w.heap.size + 1) 0 rfl .u8 _ rfl t _ HTT.out size5 (by simp only [List.size_toArray, bcs_len]; have := HBL.out; omega) ?_; intro x5 hh hg hz; have HH := Lib.hid hh; have HG := Lib.hid hg; clear hh hg hz)) | ((with_reducible show wpList _ _ _ (⟨none, .store 5 (.tmp 18) _, _, _, _, _⟩ :: _) _ _); go_must (refine wpList_store_one rfl 5 (.tmp 18) (.const (.int .u8 127)) rfl (w.heap.size + 1) 31 rfl .u8 _ rfl t _ HH.out size5 (by simp only [List.size_toArray, bcs_len, Array.size_setIfInBounds]; have := HBL.out; omega) ?_; intro x6 hh hg hz; have HH2 := Lib.hid hh; have HG2 := Lib.hid hg; clear hh hg hz)) | fail)
      have S2 : Hid (Sz w (enc V) x6) := by
        have hh := HH2.out
        have e : Value.int IntKind.u8 ((237 - n : Nat) : Int) = bc (UInt8.ofNat (237 - n)) := by unfold bc; rw [of_byte, Nat.mod_eq_of_lt (by omega)]
        rw [show Value.int IntKind.u8 127 = bc 127 from rfl, e, bcs_put, bcs_put] at hh
        have hl : l = List.replicate 32 255 := by
          apply List.ext_getElem
          · rw [HBL.out]; rfl
          · intro i h1 h2
            have h := HVL.out i (by have := HBL.out; omega)
            rw [List.getD_eq_getElem?_getD, List.getElem?_eq_getElem h1] at h
            rw [List.getElem_replicate]
            exact h
        have e2 : (l.set 0 (UInt8.ofNat (237 - n))).set 31 127 = enc V := by rw [← HV.out, hl]; rfl
        have q := (H.out.set HG.out (l' := l.set 0 (UInt8.ofNat (237 - n))) (t := t) (by rw [List.length_set]; exact HBL.out) (by have h := HH.out; rw [e, bcs_put] at h; exact h)).set HG2.out (by rw [List.length_set, List.length_set]; exact HBL.out) hh
        rw [e2] at q
        exact q
      clear HH HG HH2 HG2 H HVL HTT HBL hsub
      simp only [Act.put]
      go_loopw [1, 7] (fun kk _ wr => ∃ r : Nat, r ≤ k ∧ kk = .int .i64 r ∧ Sz w (enc (V / 2 ^ (k - r))) wr) (fun kk _ _ => (intOf kk).toNat)
      case atStart => exact ⟨k, by omega, rfl, by rw [Nat.sub_self, Nat.pow_zero, Nat.div_one]; exact S2.out⟩
      case round =>
        obtain ⟨r, hr, rfl, hp⟩ := hrel
        have H := Lib.hid hp
        clear hp S2
        have HVT : Hid (V / 2 ^ (k - r) < TT) := Lib.hid (Nat.lt_of_le_of_lt (Nat.div_le_self _ _) HT.out)
        by_cases hr0 : r = 0
        · subst hr0
          have H := H.out
          rw [Nat.sub_zero] at H
          have H := Lib.hid H
          obtain ⟨L, hL⟩ : ∃ L, L = enc (V / 2 ^ k) := ⟨_, rfl⟩
          have HLE : Hid (Value.agg (bcs L).toArray = vN (V / 2 ^ k)) := by rw [hL]; rfl
          rw [← hL] at H
          have HBL : Hid (L.length = 32) := H.out.b.1
          obtain ⟨t, ht⟩ := H.out.b.2
          have HTT := Lib.hid ht
          clear ht hL
          go_wp2_with (first | ((with_reducible show wpList _ _ _ (⟨_, .load 23 (.tmp 5), _, _, _, _⟩ :: _) _ _); go_must (refine wpList_load_arr rfl 23 (.tmp 5) rfl (w.heap.size + 1) 0 rfl (bcs L) (fun i u hu => by rw [Nat.zero_add]; exact row_cells HTT.out i u (by simpa using hu)) _ under23 rfl (by rw [bcs_len, HBL.out]; exact size23) ?_)) | ((with_reducible show wpList _ _ _ (⟨none, .store 23 (.tmp 4) (.tmp 49), _, _, _, _⟩ :: _) _ _); go_must (refine wpList_store_all rfl 23 (.tmp 4) (.tmp 49) rfl (w.heap.size) rfl (bcs L).toArray rfl 23 _ H.out.res (by rw [List.size_toArray, bcs_len, HBL.out]; exact size23) (by rw [List.size_toArray, bcs_len, HBL.out]; rfl) (bcs_one _) ?_; intro x5 hh hg hz; have HH := Lib.hid hh; have HG := Lib.hid hg; clear hh hg hz)) | fail)
          refine bodyPost_ret (results_cell_row rfl _ _ (w.heap.size) 23 (bcs L).toArray _ _ rfl HH.out under23 rfl (by rw [List.size_toArray, bcs_len, HBL.out]; exact size23)) rfl ?_
          exact ⟨by rw [HLE.out], H.out.bel.grown HG.out H.out.bel.size (fun r hr => by injection hr; omega)⟩
        · have hri : (0 : Int) < (r : Int) := by omega
          have hrk : (r : Int) < 10 := by omega
          have HNX : Hid (V / 2 ^ (k - r) / 2 = V / 2 ^ (k - (r - 1))) := by rw [Nat.div_div_eq_div_mul, ← Nat.pow_succ, show (k - r).succ = k - (r - 1) from by omega]; exact Lib.hid rfl
          generalize V / 2 ^ (k - r) = v at *
          go_wp2_with fail
          rw [show decide (0 < r) = true from decide_eq_true (by omega)]
          go_loopw [7] (fun j wi => ∃ i : Nat, ∃ l : List UInt8, i ≤ 32 ∧ j = .int .i64 i ∧ Mix v i l ∧ Sz w l wi) (fun j _ => 32 - (intOf j).toNat)
          case atStart => exact ⟨0, _, by omega, rfl, fun j hj => by rw [if_neg (by omega)]; exact enc_byte v HVT.out j, H.out⟩
          case round =>
            obtain ⟨i, l, hi, rfl, hm, hp⟩ := hrel
            have H1 := Lib.hid hp
            have HM := Lib.hid hm
            clear hp H hm
            have HBL : Hid (l.length = 32) := H1.out.b.1
            obtain ⟨t, ht⟩ := H1.out.b.2
            have HTT := Lib.hid ht
            clear ht
            by_cases hlt : i < 32
            · have hii : (i : Int) < 32 := by omega
              have c0 := H1.out.b.cell i hlt
              generalize hb : (l.getD i 0).toNat = b at c0
              have HB := Lib.hid hb
              clear hb
              have HB256 : Hid (b < 256) := by rw [← HB.out]; exact Lib.hid (UInt8.toNat_lt _)
              have HE : Hid (Value.int IntKind.u8 ((b : Int) / 2 % 256) = bc (UInt8.ofNat (b / 2))) := by
                unfold bc
                rw [of_byte]
                exact Lib.hid (by simp)
              have HH2 : Hid (b / 2 % 256 = b / 2) := by have := HB256.out; exact Lib.hid (by omega)
              by_cases h31 : i < 31
              · have h31i : (i : Int) < 31 := by omega
                generalize hb1 : (l.getD (i + 1) 0).toNat = b1
                have HB1 := Lib.hid hb1
                clear hb1
                have hst := half_step v i
                rw [← (by have h := HM.out i hlt; rw [if_neg (by omega)] at h; exact h : (l.getD i 0).toNat = v / 256 ^ i % 256), ← (by have h := HM.out (i + 1) (by omega); rw [if_neg (by omega)] at h; exact h : (l.getD (i + 1) 0).toNat = v / 256 ^ (i + 1) % 256), HB.out, HB1.out] at hst
                have HST := Lib.hid hst
                clear hst
                by_cases hp1 : b1 % 2 = 1
                · have hpt : ((b1 : Int) % 2 == 1) = true := by
                    rw [show ((b1 : Int)) % 2 = ((b1 % 2 : Nat) : Int) from rfl, hp1]; rfl
                  have HE3 : Hid (Value.int IntKind.u8 (((b : Int) / 2 + 128) % 256) = bc (UInt8.ofNat (b / 2 + 128))) := by
                    unfold bc
                    rw [of_byte]
                    exact Lib.hid (by simp)
                  go_wp2_with (first | ((with_reducible show wpList _ _ _ (⟨none, .store 5 (.tmp 32) (.tmp 31), _, _, _, _⟩ :: _) _ _); go_must (refine wpList_store_one rfl 5 (.tmp 32) (.tmp 31) rfl (w.heap.size + 1) i rfl .u8 _ rfl t _ HTT.out size5 (by simp only [List.size_toArray, bcs_len]; have := HBL.out; omega) ?_; intro x5 hh hg hz; rw [HE.out, bcs_put] at hh; have HT5 := Lib.hid hh; have H2 := Lib.hid (H1.out.set hg (by rw [List.length_set]; exact HBL.out) hh); clear hh hg hz; have c0' := H2.out.b.cell i hlt; rw [getD_set_eq8 _ _ _ (by have := HBL.out; omega), of_byte, HH2.out] at c0'; have c1 := H2.out.b.cell (i + 1) (by omega); rw [getD_set_ne8 _ _ _ _ (by omega), HB1.out] at c1)) | ((with_reducible show wpList _ _ _ (⟨none, .store 5 (.tmp 48) (.tmp 47), _, _, _, _⟩ :: _) _ _); go_must (refine wpList_store_one rfl 5 (.tmp 48) (.tmp 47) rfl (w.heap.size + 1) i rfl .u8 _ rfl t _ HT5.out size5 (by simp only [List.size_toArray, bcs_len, List.length_set]; have := HBL.out; omega) ?_; intro x6 hh hg hz; rw [HE3.out, bcs_put, List.set_set] at hh; have H3 := Lib.hid (H2.out.set hg (by rw [List.length_set]; exact HBL.out) hh); clear hh hg hz)) | fail)
                  exact ⟨⟨i + 1, _, by omega, by go_num, HM.out.next HBL.out hlt (b / 2 + 128) (by rw [HST.out, hp1]; have := HB256.out; omega), H3.out⟩, by simp [intOf]; omega⟩
                · have hpt : ((b1 : Int) % 2 == 1) = false := by
                    rw [show ((b1 : Int)) % 2 = ((b1 % 2 : Nat) : Int) from rfl, show b1 % 2 = 0 from by omega]; rfl
                  go_wp2_with (first | ((with_reducible show wpList _ _ _ (⟨none, .store 5 (.tmp 32) (.tmp 31), _, _, _, _⟩ :: _) _ _); go_must (refine wpList_store_one rfl 5 (.tmp 32) (.tmp 31) rfl (w.heap.size + 1) i rfl .u8 _ rfl t _ HTT.out size5 (by simp only [List.size_toArray, bcs_len]; have := HBL.out; omega) ?_; intro x5 hh hg hz; rw [HE.out, bcs_put] at hh; have HT5 := Lib.hid hh; have H2 := Lib.hid (H1.out.set hg (by rw [List.length_set]; exact HBL.out) hh); clear hh hg hz; have c0' := H2.out.b.cell i hlt; rw [getD_set_eq8 _ _ _ (by have := HBL.out; omega), of_byte, HH2.out] at c0'; have c1 := H2.out.b.cell (i + 1) (by omega); rw [getD_set_ne8 _ _ _ _ (by omega), HB1.out] at c1)) | fail)
                  exact ⟨⟨i + 1, _, by omega, by go_num, HM.out.next HBL.out hlt (b / 2) (by rw [HST.out, show b1 % 2 = 0 from by omega]; have := HH2.out; omega), H2.out⟩, by simp [intOf]; omega⟩
              · have e31 : i = 31 := by omega
                have h31i : ¬ (i : Int) < 31 := by omega
                have hst := half_last v HVT.out
                rw [← e31, ← (by have h := HM.out i hlt; rw [if_neg (by omega)] at h; exact h : (l.getD i 0).toNat = v / 256 ^ i % 256), HB.out] at hst
                clear e31
                have HST := Lib.hid hst
                clear hst
                go_wp2_with (first | ((with_reducible show wpList _ _ _ (⟨none, .store 5 (.tmp 32) (.tmp 31), _, _, _, _⟩ :: _) _ _); go_must (refine wpList_store_one rfl 5 (.tmp 32) (.tmp 31) rfl (w.heap.size + 1) i rfl .u8 _ rfl t _ HTT.out size5 (by simp only [List.size_toArray, bcs_len]; have := HBL.out; omega) ?_; intro x5 hh hg hz; rw [HE.out, bcs_put] at hh; have HT5 := Lib.hid hh; have H2 := Lib.hid (H1.out.set hg (by rw [List.length_set]; exact HBL.out) hh); clear hh hg hz)) | fail)
                exact ⟨⟨i + 1, _, by omega, by go_num, HM.out.next HBL.out hlt (b / 2) (by rw [HST.out]; exact HH2.out), H2.out⟩, by simp [intOf]; omega⟩
            · obtain rfl : i = 32 := by omega
              have hl : l = enc (v / 2) := bytes_eq l (v / 2) (Nat.lt_of_le_of_lt (Nat.div_le_self _ _) HVT.out) HBL.out (fun j hj => by rw [HM.out j hj, if_pos hj])
              subst hl
              have hk2 : IntKind.i64.wrap ((r : Int) - 1) = ((r - 1 : Nat) : Int) := (IntWalk.i64_in _ (by omega)).trans (by omega)
              go_wp2_with fail
              exact ⟨⟨r - 1, by omega, rfl, by rw [← HNX.out]; exact H1.out⟩, by simp [intOf]; omega⟩
end Go.Proofs.Ytgdimnbdnepbgaa
/- The reference's Root. No statement is proved here. -/
namespace Go.Proofs.Ytgdimnbdnepbgaa
open Go.RowKit
set_option linter.unusedVariables false
set_option maxRecDepth 40000
set_option linter.unusedSimpArgs false

set_option maxHeartbeats 4000000 in
theorem rRoot_core (a e1 r x0 m0 e2 i x1 m1 n0 n1 xx : Nat) (b1 b2 o0 o1 ok : Bool) (w : World)
    (HS1 : Hid (∀ w, Calls Try.prog 64 #[.int .i64 5, .int .i64 3] w (Gives (vN e1) w)))
    (HP1 : Hid (∀ w, Calls Try.prog 28 #[vN a, vN e1] w (Gives (vN r) w)))
    (HM1 : Hid (∀ w, Calls Try.prog 26 #[vN r, vN a] w (Gives (vN x0) w)))
    (HM2 : Hid (∀ w, Calls Try.prog 26 #[vN x0, vN x0] w (Gives (vN m0) w)))
    (HB1 : Hid (∀ w, Calls Try.prog 34 #[vN m0, vN a] w (Gives (.bool b1) w)))
    (HOf : Hid (∀ w, Calls Try.prog 18 #[.int .u64 2] w (Gives (vN 2) w)))
    (HS2 : Hid (∀ w, Calls Try.prog 64 #[.int .i64 1, .int .i64 2] w (Gives (vN e2) w)))
    (HP2 : Hid (∀ w, Calls Try.prog 28 #[vN 2, vN e2] w (Gives (vN i) w)))
    (HM3 : Hid (∀ w, Calls Try.prog 26 #[vN x0, vN i] w (Gives (vN x1) w)))
    (HM4 : Hid (∀ w, Calls Try.prog 26 #[vN x1, vN x1] w (Gives (vN m1) w)))
    (HB2 : Hid (∀ w, Calls Try.prog 34 #[vN m1, vN a] w (Gives (.bool b2) w)))
    (HO0 : Hid (∀ w, Calls Try.prog 32 #[vN x0] w (Gives (.bool o0) w)))
    (HN0 : Hid (∀ w, Calls Try.prog 24 #[vN x0] w (Gives (vN n0) w)))
    (HO1 : Hid (∀ w, Calls Try.prog 32 #[vN x1] w (Gives (.bool o1) w)))
    (HN1 : Hid (∀ w, Calls Try.prog 24 #[vN x1] w (Gives (vN n1) w)))
    (HX : Hid ((xx, ok) = (if b1 then (if o0 then n0 else x0, true) else if b2 then (if o1 then n1 else x1, true) else (0, false)))) :
    Calls Try.prog 12 #[vN a] w (Gives (.tuple #[vN xx, .bool ok]) w) := by
  go_enter Try.func12, Try.ntmps12
  go_wp2_with (first | ((with_reducible show wpList _ _ _ (⟨some 1, .box 23 (.tmp 0), _, _, _, _⟩ :: _) _ _); go_must (refine wpList_box_row rfl 23 (.tmp 0) rfl (bcs (enc a)).toArray rfl ?_; intro w1 h1 z1 g1; have H1 := Lib.hid h1; have Z1 := Lib.hid z1; have G1 := Lib.hid g1; clear h1 z1 g1)) | ((with_reducible show wpList _ _ _ (⟨some 2, .alloc 23, _, _, _, _⟩ :: _) _ _); go_must (refine wpList_alloc_row rfl 23 rfl (.agg (zbs 32)) zero23 ?_; intro w2 h1 z1 g1; have H2 := Lib.hid h1; have Z2 := Lib.hid z1; have G2 := Lib.hid g1; clear h1 z1 g1)))
  have R : Hid (NAt w2 w.heap.size a) := NAt.grown ⟨23, H1.out⟩ G2.out (by simp)
  have HB : Hid (Below w.heap.size w w2) := (below_of_grownBy G1.out).trans ((below_of_grownBy G2.out).mono (by have := Z1.out; omega))
  have Z : Hid (ZAt w2 (w.heap.size + 1)) := by
    have h := H2.out
    rw [Z1.out] at h
    exact h
  rw [show w1.heap.size = w.heap.size + 1 from Z1.out]
  have HLTwheapsize : Hid (w.heap.size < w2.heap.size) := R.out.lt
  have HLTwheapsizep1 : Hid (w.heap.size + 1 < w2.heap.size) := Z.out.lt
  clear H1 Z1 G1 H2 Z2 G2
  refine region_split (fun a' W => ∃ g, NAt W w.heap.size a ∧ ZAt W (w.heap.size + 1) ∧ NAt W g x0 ∧ w2.heap.size ≤ g ∧ Below w.heap.size w W ∧ a' = ⟨#[vN a, .pointer (some ⟨w.heap.size, 0, none⟩), .pointer (some ⟨w.heap.size + 1, 0, none⟩), .bool false, .pointer (some ⟨g, 0, none⟩), vN a, vN e1, vN r, vN a, vN x0, undef, undef, undef, undef, undef, undef, undef, undef, undef, undef, undef, undef, undef, undef, undef, undef, undef, undef, undef, undef, undef, undef, undef], []⟩) ?_ ?_
  · refine startW (fun j => j == 6) (w2.heap.size) (by kernel_rfl) ?_
    obtain ⟨D1, hD1⟩ : ∃ D, D = w2.drew := ⟨_, rfl⟩
    rw [← hD1]
    have HLD1 : Hid (w2.heap.size ≤ D1.heap.size) := Lib.hid (by rw [hD1]; exact Nat.le_refl _)
    have HBD1 : Hid (Below w.heap.size w D1) := Lib.hid (by rw [hD1]; exact below_drewN' HB.out 1)
    have R0D1 : Hid (NAt D1 (w.heap.size) a) := Lib.hid (by rw [hD1]; exact R.out)
    have Z0D1 : Hid (ZAt D1 (w.heap.size + 1)) := Lib.hid (by rw [hD1]; exact Z.out)
    clear hD1
    refine takeT (i := 0) (oi := { dst := some 5, op := Op.load 23 (Operand.tmp 1), type := 23, pos := "ref.go:185", after := #[], guard := none }) (vN a) rfl (by kernel_rfl) (by kernel_rfl) (by kernel_rfl) (by kernel_rfl) (by kernel_rfl) (fun _ _ _ h => nomatch h.1) (by rfl) (fun w' hk => exec_load23 (.tmp 1) rfl (w.heap.size) a rfl (R0D1.out.below hk HLTwheapsize.out)) ?_
    simp only [Act.put, List.setIfInBounds_toArray, List.set_cons_zero, List.set_cons_succ]
    refine takeT (i := 3) (oi := { dst := some 8, op := Op.load 23 (Operand.tmp 1), type := 23, pos := "ref.go:185", after := #[], guard := none }) (vN a) rfl (by kernel_rfl) (by kernel_rfl) (by kernel_rfl) (by kernel_rfl) (by kernel_rfl) (fun _ _ _ h => nomatch h.1) (by rfl) (fun w' hk => exec_load23 (.tmp 1) rfl (w.heap.size) a rfl (R0D1.out.below hk HLTwheapsize.out)) ?_
    simp only [Act.put, List.setIfInBounds_toArray, List.set_cons_zero, List.set_cons_succ]
    refine eachW [1, 5] (by kernel_rfl) (by simp) ?_
    intro k hk
    simp only [List.mem_cons, List.not_mem_nil, or_false] at hk
    rcases hk with rfl | rfl
    · refine wpOp_call (i := 1) (oi := { dst := some 6, op := Op.call { callee := Callee.value (Operand.func 64), args := #[Operand.const (Value.int IntKind.i64 5), Operand.const (Value.int IntKind.i64 3)], argTypes := #[3, 3] }, type := 23, pos := "ref.go:185", after := #[], guard := none }) rfl (by rfl) (exec_callL 64 [.const (.int .i64 5), .const (.int .i64 3)] #[3, 3] rfl [.int .i64 5, .int .i64 3] rfl (CG64 _)) ((HS1.out D1).mono ?_)
      rintro eW2 W2 ⟨rfl, hbW2⟩
      refine ⟨_, rfl, fun _ => hbW2.mono HLD1.out, ?_⟩
      have HBW2 : Hid (Below w.heap.size w W2) := Lib.hid (HBD1.out.trans (hbW2.mono HBD1.out.size))
      have HLW2 : Hid (w2.heap.size ≤ W2.heap.size) := Lib.hid (Nat.le_trans HLD1.out hbW2.size)
      have R0D1_W2 := Lib.hid (R0D1.out.keep hbW2)
      have Z0D1_W2 := Lib.hid (Z0D1.out.keep hbW2)
      clear hbW2 HBD1 HLD1 R0D1 Z0D1
      simp only [Act.put, List.setIfInBounds_toArray, List.set_cons_zero, List.set_cons_succ]
      refine eachW [2, 5] (by kernel_rfl) (by simp) ?_
      intro k hk
      simp only [List.mem_cons, List.not_mem_nil, or_false] at hk
      rcases hk with rfl | rfl
      · refine wpOp_call (i := 2) (oi := { dst := some 7, op := Op.call { callee := Callee.value (Operand.func 28), args := #[Operand.tmp 5, Operand.tmp 6], argTypes := #[23, 23] }, type := 23, pos := "ref.go:185", after := #[{ on := 0, ground := Ground.data }, { on := 1, ground := Ground.data }, { on := 1, ground := Ground.chain }], guard := none }) rfl (by rfl) (exec_callL 28 [.tmp 5, .tmp 6] #[23, 23] rfl [vN a, vN e1] rfl (CG28 _)) ((HP1.out W2).mono ?_)
        rintro eW3 W3 ⟨rfl, hbW3⟩
        refine ⟨_, rfl, fun _ => hbW3.mono HLW2.out, ?_⟩
        have HBW3 : Hid (Below w.heap.size w W3) := Lib.hid (HBW2.out.trans (hbW3.mono HBW2.out.size))
        have HLW3 : Hid (w2.heap.size ≤ W3.heap.size) := Lib.hid (Nat.le_trans HLW2.out hbW3.size)
        have R0D1_W3 := Lib.hid (R0D1_W2.out.keep hbW3)
        have Z0D1_W3 := Lib.hid (Z0D1_W2.out.keep hbW3)
        clear hbW3 HBW2 HLW2 R0D1_W2 Z0D1_W2
        simp only [Act.put, List.setIfInBounds_toArray, List.set_cons_zero, List.set_cons_succ]
        refine eachW [4, 5] (by kernel_rfl) (by simp) ?_
        intro k hk
        simp only [List.mem_cons, List.not_mem_nil, or_false] at hk
        rcases hk with rfl | rfl
        · refine wpOp_call (i := 4) (oi := { dst := some 9, op := Op.call { callee := Callee.value (Operand.func 26), args := #[Operand.tmp 7, Operand.tmp 8], argTypes := #[23, 23] }, type := 23, pos := "ref.go:185", after := #[{ on := 2, ground := Ground.data }, { on := 3, ground := Ground.data }, { on := 2, ground := Ground.chain }], guard := none }) rfl (by rfl) (exec_callL 26 [.tmp 7, .tmp 8] #[23, 23] rfl [vN r, vN a] rfl (CG26 _)) ((HM1.out W3).mono ?_)
          rintro eW4 W4 ⟨rfl, hbW4⟩
          refine ⟨_, rfl, fun _ => hbW4.mono HLW3.out, ?_⟩
          have HBW4 : Hid (Below w.heap.size w W4) := Lib.hid (HBW3.out.trans (hbW4.mono HBW3.out.size))
          have HLW4 : Hid (w2.heap.size ≤ W4.heap.size) := Lib.hid (Nat.le_trans HLW3.out hbW4.size)
          have R0D1_W4 := Lib.hid (R0D1_W3.out.keep hbW4)
          have Z0D1_W4 := Lib.hid (Z0D1_W3.out.keep hbW4)
          clear hbW4 HBW3 HLW3 R0D1_W3 Z0D1_W3
          simp only [Act.put, List.setIfInBounds_toArray, List.set_cons_zero, List.set_cons_succ]
          refine opW _ _ (i := 5) (oi := { dst := some 4, op := Op.alloc 23, type := 0, pos := "ref.go:185", after := #[], guard := none }) rfl (by kernel_rfl) (by rfl) (exec_alloc 23 rfl (.agg (zbs 32)) zero23 W4) (fun _ => (below_alloc W4 _).mono HLW4.out) ?_
          obtain ⟨W5, hW5, hbW5, hzW5⟩ := alloc_zero W4
          rw [← hW5]
          obtain ⟨gW5, hgW5⟩ : ∃ g, g = W4.heap.size := ⟨_, rfl⟩
          rw [← hgW5] at hzW5 ⊢
          have HGgW5 : Hid (w2.heap.size ≤ gW5) := Lib.hid (by rw [hgW5]; exact HLW4.out)
          have HBW5 : Hid (Below w.heap.size w W5) := Lib.hid (HBW4.out.trans (hbW5.mono HBW4.out.size))
          have HLW5 : Hid (w2.heap.size ≤ W5.heap.size) := Lib.hid (Nat.le_trans HLW4.out hbW5.size)
          have R0D1_W5 := Lib.hid (R0D1_W4.out.keep hbW5)
          have Z0D1_W5 := Lib.hid (Z0D1_W4.out.keep hbW5)
          have ZAgW5_W5 := Lib.hid hzW5
          clear hbW5 HBW4 HLW4 R0D1_W4 Z0D1_W4 hzW5 hgW5 hW5
          simp only [Act.put, List.setIfInBounds_toArray, List.set_cons_zero, List.set_cons_succ]
          refine storeW_all (i := 6) (oi := { dst := none, op := Op.store 23 (Operand.tmp 4) (Operand.tmp 9), type := 0, pos := "ref.go:185", after := #[{ on := 5, ground := Ground.data }, { on := 4, ground := Ground.data }, { on := 4, ground := Ground.chain }, { on := 0, ground := Ground.phase }, { on := 1, ground := Ground.phase }, { on := 2, ground := Ground.phase }, { on := 3, ground := Ground.phase }, { on := 4, ground := Ground.phase }, { on := 5, ground := Ground.phase }], guard := none }) rfl (by kernel_rfl) (by rfl) 23 (.tmp 4) (.tmp 9) rfl (gW5) rfl (bcs (enc x0)).toArray rfl 23 _ ZAgW5_W5.out (by rw [List.size_toArray, bcs_enc_len]; exact size23) (by rw [List.size_toArray, bcs_enc_len]; rfl) (bcs_one _) rfl ?_
          intro W6 hhW6 hgW6 hzW6
          simp only [Act.put, List.setIfInBounds_toArray, List.set_cons_zero, List.set_cons_succ]
          have R0D1_W6 := Lib.hid (R0D1_W5.out.grown hgW6 (by have := HGgW5.out; have := HLTwheapsize.out; simp; omega))
          have Z0D1_W6 := Lib.hid (Z0D1_W5.out.grown hgW6 (by have := HGgW5.out; have := HLTwheapsizep1.out; simp; omega))
          have SgW5_W6 : Hid (NAt W6 (gW5) x0) := Lib.hid ⟨23, hhW6⟩
          have HBW6 : Hid (Below w.heap.size w W6) := Lib.hid (HBW5.out.grown hgW6 HBW5.out.size (fun r hr => by injection hr with hr; have := HGgW5.out; have := HB.out.size; omega))
          have HLW6 : Hid (w2.heap.size ≤ W6.heap.size) := Lib.hid (Nat.le_trans HLW5.out hgW6.size)
          clear hhW6 hgW6 hzW6 HBW5 HLW5 R0D1_W5 Z0D1_W5 ZAgW5_W5
          refine doneW (by kernel_rfl) ⟨rfl, ?_⟩ _
          exact ⟨gW5, R0D1_W6.out, Z0D1_W6.out, SgW5_W6.out, HGgW5.out, HBW6.out, rfl⟩
        · refine wpOp_value (i := 5) (oi := { dst := some 4, op := Op.alloc 23, type := 0, pos := "ref.go:185", after := #[], guard := none }) rfl (by rfl) (exec_alloc 23 rfl (.agg (zbs 32)) zero23 W3) ⟨fun _ => (below_alloc W3 _).mono HLW3.out, ?_⟩
          obtain ⟨W7, hW7, hbW7, hzW7⟩ := alloc_zero W3
          rw [← hW7]
          obtain ⟨gW7, hgW7⟩ : ∃ g, g = W3.heap.size := ⟨_, rfl⟩
          rw [← hgW7] at hzW7 ⊢
          have HGgW7 : Hid (w2.heap.size ≤ gW7) := Lib.hid (by rw [hgW7]; exact HLW3.out)
          have HBW7 : Hid (Below w.heap.size w W7) := Lib.hid (HBW3.out.trans (hbW7.mono HBW3.out.size))
          have HLW7 : Hid (w2.heap.size ≤ W7.heap.size) := Lib.hid (Nat.le_trans HLW3.out hbW7.size)
          have R0D1_W7 := Lib.hid (R0D1_W3.out.keep hbW7)
          have Z0D1_W7 := Lib.hid (Z0D1_W3.out.keep hbW7)
          have ZAgW7_W7 := Lib.hid hzW7
          clear hbW7 HBW3 HLW3 R0D1_W3 Z0D1_W3 hzW7 hgW7 hW7
          simp only [Act.put, List.setIfInBounds_toArray, List.set_cons_zero, List.set_cons_succ]
          refine callW (i := 4) (oi := { dst := some 9, op := Op.call { callee := Callee.value (Operand.func 26), args := #[Operand.tmp 7, Operand.tmp 8], argTypes := #[23, 23] }, type := 23, pos := "ref.go:185", after := #[{ on := 2, ground := Ground.data }, { on := 3, ground := Ground.data }, { on := 2, ground := Ground.chain }], guard := none }) rfl (by kernel_rfl) (by rfl) (exec_callL 26 [.tmp 7, .tmp 8] #[23, 23] rfl [vN r, vN a] rfl (CG26 _)) ((HM1.out W7).mono ?_)
          rintro eW8 W8 ⟨rfl, hbW8⟩
          refine ⟨_, rfl, fun _ => hbW8.mono HLW7.out, ?_⟩
          have HBW8 : Hid (Below w.heap.size w W8) := Lib.hid (HBW7.out.trans (hbW8.mono HBW7.out.size))
          have HLW8 : Hid (w2.heap.size ≤ W8.heap.size) := Lib.hid (Nat.le_trans HLW7.out hbW8.size)
          have R0D1_W8 := Lib.hid (R0D1_W7.out.keep hbW8)
          have Z0D1_W8 := Lib.hid (Z0D1_W7.out.keep hbW8)
          have ZAgW7_W8 := Lib.hid (ZAgW7_W7.out.keep hbW8)
          clear hbW8 HBW7 HLW7 R0D1_W7 Z0D1_W7 ZAgW7_W7
          simp only [Act.put, List.setIfInBounds_toArray, List.set_cons_zero, List.set_cons_succ]
          refine storeW_all (i := 6) (oi := { dst := none, op := Op.store 23 (Operand.tmp 4) (Operand.tmp 9), type := 0, pos := "ref.go:185", after := #[{ on := 5, ground := Ground.data }, { on := 4, ground := Ground.data }, { on := 4, ground := Ground.chain }, { on := 0, ground := Ground.phase }, { on := 1, ground := Ground.phase }, { on := 2, ground := Ground.phase }, { on := 3, ground := Ground.phase }, { on := 4, ground := Ground.phase }, { on := 5, ground := Ground.phase }], guard := none }) rfl (by kernel_rfl) (by rfl) 23 (.tmp 4) (.tmp 9) rfl (gW7) rfl (bcs (enc x0)).toArray rfl 23 _ ZAgW7_W8.out (by rw [List.size_toArray, bcs_enc_len]; exact size23) (by rw [List.size_toArray, bcs_enc_len]; rfl) (bcs_one _) rfl ?_
          intro W9 hhW9 hgW9 hzW9
          simp only [Act.put, List.setIfInBounds_toArray, List.set_cons_zero, List.set_cons_succ]
          have R0D1_W9 := Lib.hid (R0D1_W8.out.grown hgW9 (by have := HGgW7.out; have := HLTwheapsize.out; simp; omega))
          have Z0D1_W9 := Lib.hid (Z0D1_W8.out.grown hgW9 (by have := HGgW7.out; have := HLTwheapsizep1.out; simp; omega))
          have SgW7_W9 : Hid (NAt W9 (gW7) x0) := Lib.hid ⟨23, hhW9⟩
          have HBW9 : Hid (Below w.heap.size w W9) := Lib.hid (HBW8.out.grown hgW9 HBW8.out.size (fun r hr => by injection hr with hr; have := HGgW7.out; have := HB.out.size; omega))
          have HLW9 : Hid (w2.heap.size ≤ W9.heap.size) := Lib.hid (Nat.le_trans HLW8.out hgW9.size)
          clear hhW9 hgW9 hzW9 HBW8 HLW8 R0D1_W8 Z0D1_W8 ZAgW7_W8
          refine doneW (by kernel_rfl) ⟨rfl, ?_⟩ _
          exact ⟨gW7, R0D1_W9.out, Z0D1_W9.out, SgW7_W9.out, HGgW7.out, HBW9.out, rfl⟩
      · refine wpOp_value (i := 5) (oi := { dst := some 4, op := Op.alloc 23, type := 0, pos := "ref.go:185", after := #[], guard := none }) rfl (by rfl) (exec_alloc 23 rfl (.agg (zbs 32)) zero23 W2) ⟨fun _ => (below_alloc W2 _).mono HLW2.out, ?_⟩
        obtain ⟨W10, hW10, hbW10, hzW10⟩ := alloc_zero W2
        rw [← hW10]
        obtain ⟨gW10, hgW10⟩ : ∃ g, g = W2.heap.size := ⟨_, rfl⟩
        rw [← hgW10] at hzW10 ⊢
        have HGgW10 : Hid (w2.heap.size ≤ gW10) := Lib.hid (by rw [hgW10]; exact HLW2.out)
        have HBW10 : Hid (Below w.heap.size w W10) := Lib.hid (HBW2.out.trans (hbW10.mono HBW2.out.size))
        have HLW10 : Hid (w2.heap.size ≤ W10.heap.size) := Lib.hid (Nat.le_trans HLW2.out hbW10.size)
        have R0D1_W10 := Lib.hid (R0D1_W2.out.keep hbW10)
        have Z0D1_W10 := Lib.hid (Z0D1_W2.out.keep hbW10)
        have ZAgW10_W10 := Lib.hid hzW10
        clear hbW10 HBW2 HLW2 R0D1_W2 Z0D1_W2 hzW10 hgW10 hW10
        simp only [Act.put, List.setIfInBounds_toArray, List.set_cons_zero, List.set_cons_succ]
        refine callW (i := 2) (oi := { dst := some 7, op := Op.call { callee := Callee.value (Operand.func 28), args := #[Operand.tmp 5, Operand.tmp 6], argTypes := #[23, 23] }, type := 23, pos := "ref.go:185", after := #[{ on := 0, ground := Ground.data }, { on := 1, ground := Ground.data }, { on := 1, ground := Ground.chain }], guard := none }) rfl (by kernel_rfl) (by rfl) (exec_callL 28 [.tmp 5, .tmp 6] #[23, 23] rfl [vN a, vN e1] rfl (CG28 _)) ((HP1.out W10).mono ?_)
        rintro eW11 W11 ⟨rfl, hbW11⟩
        refine ⟨_, rfl, fun _ => hbW11.mono HLW10.out, ?_⟩
        have HBW11 : Hid (Below w.heap.size w W11) := Lib.hid (HBW10.out.trans (hbW11.mono HBW10.out.size))
        have HLW11 : Hid (w2.heap.size ≤ W11.heap.size) := Lib.hid (Nat.le_trans HLW10.out hbW11.size)
        have R0D1_W11 := Lib.hid (R0D1_W10.out.keep hbW11)
        have Z0D1_W11 := Lib.hid (Z0D1_W10.out.keep hbW11)
        have ZAgW10_W11 := Lib.hid (ZAgW10_W10.out.keep hbW11)
        clear hbW11 HBW10 HLW10 R0D1_W10 Z0D1_W10 ZAgW10_W10
        simp only [Act.put, List.setIfInBounds_toArray, List.set_cons_zero, List.set_cons_succ]
        refine callW (i := 4) (oi := { dst := some 9, op := Op.call { callee := Callee.value (Operand.func 26), args := #[Operand.tmp 7, Operand.tmp 8], argTypes := #[23, 23] }, type := 23, pos := "ref.go:185", after := #[{ on := 2, ground := Ground.data }, { on := 3, ground := Ground.data }, { on := 2, ground := Ground.chain }], guard := none }) rfl (by kernel_rfl) (by rfl) (exec_callL 26 [.tmp 7, .tmp 8] #[23, 23] rfl [vN r, vN a] rfl (CG26 _)) ((HM1.out W11).mono ?_)
        rintro eW12 W12 ⟨rfl, hbW12⟩
        refine ⟨_, rfl, fun _ => hbW12.mono HLW11.out, ?_⟩
        have HBW12 : Hid (Below w.heap.size w W12) := Lib.hid (HBW11.out.trans (hbW12.mono HBW11.out.size))
        have HLW12 : Hid (w2.heap.size ≤ W12.heap.size) := Lib.hid (Nat.le_trans HLW11.out hbW12.size)
        have R0D1_W12 := Lib.hid (R0D1_W11.out.keep hbW12)
        have Z0D1_W12 := Lib.hid (Z0D1_W11.out.keep hbW12)
        have ZAgW10_W12 := Lib.hid (ZAgW10_W11.out.keep hbW12)
        clear hbW12 HBW11 HLW11 R0D1_W11 Z0D1_W11 ZAgW10_W11
        simp only [Act.put, List.setIfInBounds_toArray, List.set_cons_zero, List.set_cons_succ]
        refine storeW_all (i := 6) (oi := { dst := none, op := Op.store 23 (Operand.tmp 4) (Operand.tmp 9), type := 0, pos := "ref.go:185", after := #[{ on := 5, ground := Ground.data }, { on := 4, ground := Ground.data }, { on := 4, ground := Ground.chain }, { on := 0, ground := Ground.phase }, { on := 1, ground := Ground.phase }, { on := 2, ground := Ground.phase }, { on := 3, ground := Ground.phase }, { on := 4, ground := Ground.phase }, { on := 5, ground := Ground.phase }], guard := none }) rfl (by kernel_rfl) (by rfl) 23 (.tmp 4) (.tmp 9) rfl (gW10) rfl (bcs (enc x0)).toArray rfl 23 _ ZAgW10_W12.out (by rw [List.size_toArray, bcs_enc_len]; exact size23) (by rw [List.size_toArray, bcs_enc_len]; rfl) (bcs_one _) rfl ?_
        intro W13 hhW13 hgW13 hzW13
        simp only [Act.put, List.setIfInBounds_toArray, List.set_cons_zero, List.set_cons_succ]
        have R0D1_W13 := Lib.hid (R0D1_W12.out.grown hgW13 (by have := HGgW10.out; have := HLTwheapsize.out; simp; omega))
        have Z0D1_W13 := Lib.hid (Z0D1_W12.out.grown hgW13 (by have := HGgW10.out; have := HLTwheapsizep1.out; simp; omega))
        have SgW10_W13 : Hid (NAt W13 (gW10) x0) := Lib.hid ⟨23, hhW13⟩
        have HBW13 : Hid (Below w.heap.size w W13) := Lib.hid (HBW12.out.grown hgW13 HBW12.out.size (fun r hr => by injection hr with hr; have := HGgW10.out; have := HB.out.size; omega))
        have HLW13 : Hid (w2.heap.size ≤ W13.heap.size) := Lib.hid (Nat.le_trans HLW12.out hgW13.size)
        clear hhW13 hgW13 hzW13 HBW12 HLW12 R0D1_W12 Z0D1_W12 ZAgW10_W12
        refine doneW (by kernel_rfl) ⟨rfl, ?_⟩ _
        exact ⟨gW10, R0D1_W13.out, Z0D1_W13.out, SgW10_W13.out, HGgW10.out, HBW13.out, rfl⟩
    · refine wpOp_value (i := 5) (oi := { dst := some 4, op := Op.alloc 23, type := 0, pos := "ref.go:185", after := #[], guard := none }) rfl (by rfl) (exec_alloc 23 rfl (.agg (zbs 32)) zero23 D1) ⟨fun _ => (below_alloc D1 _).mono HLD1.out, ?_⟩
      obtain ⟨W14, hW14, hbW14, hzW14⟩ := alloc_zero D1
      rw [← hW14]
      obtain ⟨gW14, hgW14⟩ : ∃ g, g = D1.heap.size := ⟨_, rfl⟩
      rw [← hgW14] at hzW14 ⊢
      have HGgW14 : Hid (w2.heap.size ≤ gW14) := Lib.hid (by rw [hgW14]; exact HLD1.out)
      have HBW14 : Hid (Below w.heap.size w W14) := Lib.hid (HBD1.out.trans (hbW14.mono HBD1.out.size))
      have HLW14 : Hid (w2.heap.size ≤ W14.heap.size) := Lib.hid (Nat.le_trans HLD1.out hbW14.size)
      have R0D1_W14 := Lib.hid (R0D1.out.keep hbW14)
      have Z0D1_W14 := Lib.hid (Z0D1.out.keep hbW14)
      have ZAgW14_W14 := Lib.hid hzW14
      clear hbW14 HBD1 HLD1 R0D1 Z0D1 hzW14 hgW14 hW14
      simp only [Act.put, List.setIfInBounds_toArray, List.set_cons_zero, List.set_cons_succ]
      refine callW (i := 1) (oi := { dst := some 6, op := Op.call { callee := Callee.value (Operand.func 64), args := #[Operand.const (Value.int IntKind.i64 5), Operand.const (Value.int IntKind.i64 3)], argTypes := #[3, 3] }, type := 23, pos := "ref.go:185", after := #[], guard := none }) rfl (by kernel_rfl) (by rfl) (exec_callL 64 [.const (.int .i64 5), .const (.int .i64 3)] #[3, 3] rfl [.int .i64 5, .int .i64 3] rfl (CG64 _)) ((HS1.out W14).mono ?_)
      rintro eW15 W15 ⟨rfl, hbW15⟩
      refine ⟨_, rfl, fun _ => hbW15.mono HLW14.out, ?_⟩
      have HBW15 : Hid (Below w.heap.size w W15) := Lib.hid (HBW14.out.trans (hbW15.mono HBW14.out.size))
      have HLW15 : Hid (w2.heap.size ≤ W15.heap.size) := Lib.hid (Nat.le_trans HLW14.out hbW15.size)
      have R0D1_W15 := Lib.hid (R0D1_W14.out.keep hbW15)
      have Z0D1_W15 := Lib.hid (Z0D1_W14.out.keep hbW15)
      have ZAgW14_W15 := Lib.hid (ZAgW14_W14.out.keep hbW15)
      clear hbW15 HBW14 HLW14 R0D1_W14 Z0D1_W14 ZAgW14_W14
      simp only [Act.put, List.setIfInBounds_toArray, List.set_cons_zero, List.set_cons_succ]
      refine callW (i := 2) (oi := { dst := some 7, op := Op.call { callee := Callee.value (Operand.func 28), args := #[Operand.tmp 5, Operand.tmp 6], argTypes := #[23, 23] }, type := 23, pos := "ref.go:185", after := #[{ on := 0, ground := Ground.data }, { on := 1, ground := Ground.data }, { on := 1, ground := Ground.chain }], guard := none }) rfl (by kernel_rfl) (by rfl) (exec_callL 28 [.tmp 5, .tmp 6] #[23, 23] rfl [vN a, vN e1] rfl (CG28 _)) ((HP1.out W15).mono ?_)
      rintro eW16 W16 ⟨rfl, hbW16⟩
      refine ⟨_, rfl, fun _ => hbW16.mono HLW15.out, ?_⟩
      have HBW16 : Hid (Below w.heap.size w W16) := Lib.hid (HBW15.out.trans (hbW16.mono HBW15.out.size))
      have HLW16 : Hid (w2.heap.size ≤ W16.heap.size) := Lib.hid (Nat.le_trans HLW15.out hbW16.size)
      have R0D1_W16 := Lib.hid (R0D1_W15.out.keep hbW16)
      have Z0D1_W16 := Lib.hid (Z0D1_W15.out.keep hbW16)
      have ZAgW14_W16 := Lib.hid (ZAgW14_W15.out.keep hbW16)
      clear hbW16 HBW15 HLW15 R0D1_W15 Z0D1_W15 ZAgW14_W15
      simp only [Act.put, List.setIfInBounds_toArray, List.set_cons_zero, List.set_cons_succ]
      refine callW (i := 4) (oi := { dst := some 9, op := Op.call { callee := Callee.value (Operand.func 26), args := #[Operand.tmp 7, Operand.tmp 8], argTypes := #[23, 23] }, type := 23, pos := "ref.go:185", after := #[{ on := 2, ground := Ground.data }, { on := 3, ground := Ground.data }, { on := 2, ground := Ground.chain }], guard := none }) rfl (by kernel_rfl) (by rfl) (exec_callL 26 [.tmp 7, .tmp 8] #[23, 23] rfl [vN r, vN a] rfl (CG26 _)) ((HM1.out W16).mono ?_)
      rintro eW17 W17 ⟨rfl, hbW17⟩
      refine ⟨_, rfl, fun _ => hbW17.mono HLW16.out, ?_⟩
      have HBW17 : Hid (Below w.heap.size w W17) := Lib.hid (HBW16.out.trans (hbW17.mono HBW16.out.size))
      have HLW17 : Hid (w2.heap.size ≤ W17.heap.size) := Lib.hid (Nat.le_trans HLW16.out hbW17.size)
      have R0D1_W17 := Lib.hid (R0D1_W16.out.keep hbW17)
      have Z0D1_W17 := Lib.hid (Z0D1_W16.out.keep hbW17)
      have ZAgW14_W17 := Lib.hid (ZAgW14_W16.out.keep hbW17)
      clear hbW17 HBW16 HLW16 R0D1_W16 Z0D1_W16 ZAgW14_W16
      simp only [Act.put, List.setIfInBounds_toArray, List.set_cons_zero, List.set_cons_succ]
      refine storeW_all (i := 6) (oi := { dst := none, op := Op.store 23 (Operand.tmp 4) (Operand.tmp 9), type := 0, pos := "ref.go:185", after := #[{ on := 5, ground := Ground.data }, { on := 4, ground := Ground.data }, { on := 4, ground := Ground.chain }, { on := 0, ground := Ground.phase }, { on := 1, ground := Ground.phase }, { on := 2, ground := Ground.phase }, { on := 3, ground := Ground.phase }, { on := 4, ground := Ground.phase }, { on := 5, ground := Ground.phase }], guard := none }) rfl (by kernel_rfl) (by rfl) 23 (.tmp 4) (.tmp 9) rfl (gW14) rfl (bcs (enc x0)).toArray rfl 23 _ ZAgW14_W17.out (by rw [List.size_toArray, bcs_enc_len]; exact size23) (by rw [List.size_toArray, bcs_enc_len]; rfl) (bcs_one _) rfl ?_
      intro W18 hhW18 hgW18 hzW18
      simp only [Act.put, List.setIfInBounds_toArray, List.set_cons_zero, List.set_cons_succ]
      have R0D1_W18 := Lib.hid (R0D1_W17.out.grown hgW18 (by have := HGgW14.out; have := HLTwheapsize.out; simp; omega))
      have Z0D1_W18 := Lib.hid (Z0D1_W17.out.grown hgW18 (by have := HGgW14.out; have := HLTwheapsizep1.out; simp; omega))
      have SgW14_W18 : Hid (NAt W18 (gW14) x0) := Lib.hid ⟨23, hhW18⟩
      have HBW18 : Hid (Below w.heap.size w W18) := Lib.hid (HBW17.out.grown hgW18 HBW17.out.size (fun r hr => by injection hr with hr; have := HGgW14.out; have := HB.out.size; omega))
      have HLW18 : Hid (w2.heap.size ≤ W18.heap.size) := Lib.hid (Nat.le_trans HLW17.out hgW18.size)
      clear hhW18 hgW18 hzW18 HBW17 HLW17 R0D1_W17 Z0D1_W17 ZAgW14_W17
      refine doneW (by kernel_rfl) ⟨rfl, ?_⟩ _
      exact ⟨gW14, R0D1_W18.out, Z0D1_W18.out, SgW14_W18.out, HGgW14.out, HBW18.out, rfl⟩
  rintro a' x3 ⟨g, h1, h2, h3, h4, h5, rfl⟩
  have R3 := Lib.hid h1
  have Z3 := Lib.hid h2
  have T3 := Lib.hid h3
  have HGN : Hid (w.heap.size + 1 < g) := by have := HLTwheapsizep1.out; exact Lib.hid (by omega)
  have B3 := Lib.hid h5
  clear h1 h2 h3 h4 h5 R Z HB HLTwheapsize HLTwheapsizep1
  go_wp2_with fail
  cases b1
  · refine region_wq (by kernel_rfl) (by kernel_rfl) ?_
    refine wq_load rfl (.tmp 4) rfl (g) x0 rfl T3.out ?_
    simp only [Act.put, List.setIfInBounds_toArray, List.set_cons_zero, List.set_cons_succ]
    refine wq_load rfl (.tmp 4) rfl (g) x0 rfl T3.out ?_
    simp only [Act.put, List.setIfInBounds_toArray, List.set_cons_zero, List.set_cons_succ]
    refine wq_call rfl 26 [.tmp 10, .tmp 11] #[23, 23] rfl [vN x0, vN x0] rfl (CG26 _) (vN m0) HM2.out ?_
    simp only [Act.put, List.setIfInBounds_toArray, List.set_cons_zero, List.set_cons_succ]
    refine wq_load rfl (.tmp 1) rfl (w.heap.size) a rfl R3.out ?_
    simp only [Act.put, List.setIfInBounds_toArray, List.set_cons_zero, List.set_cons_succ]
    refine wq_call rfl 34 [.tmp 12, .tmp 13] #[23, 23] rfl [vN m0, vN a] rfl (CG34 _) (.bool false) HB1.out ?_
    simp only [Act.put, List.setIfInBounds_toArray, List.set_cons_zero, List.set_cons_succ]
    refine wq_not rfl 4 (.tmp 14) rfl false rfl ?_
    rw [show (!false) = true from rfl]
    simp only [Act.put, List.setIfInBounds_toArray, List.set_cons_zero, List.set_cons_succ]
    refine wq_nil ?_
    intro q1 hb
    have Rq1 := Lib.hid (R3.out.keep hb)
    have Zq1 := Lib.hid (Z3.out.keep hb)
    have Tq1 := Lib.hid (T3.out.keep hb)
    have Bq1 : Hid (Below w.heap.size w q1) := Lib.hid (B3.out.trans (hb.mono B3.out.size))
    clear hb R3 Z3 T3 B3
    have HLTwheapsize : Hid (w.heap.size < q1.heap.size) := Rq1.out.lt
    have HLTwheapsizep1 : Hid (w.heap.size + 1 < q1.heap.size) := Zq1.out.lt
    have HLTg : Hid (g < q1.heap.size) := Tq1.out.lt
    go_wp2_with fail
    refine region_split (fun a' W => NAt W w.heap.size a ∧ ZAt W (w.heap.size + 1) ∧ NAt W g x1 ∧ Below w.heap.size w W ∧ a' = ⟨#[vN a, .pointer (some ⟨w.heap.size, 0, none⟩), .pointer (some ⟨w.heap.size + 1, 0, none⟩), .bool false, .pointer (some ⟨g, 0, none⟩), vN a, vN e1, vN r, vN a, vN x0, vN x0, vN x0, vN m0, vN a, .bool false, .bool true, vN x0, vN 2, vN e2, vN i, vN x1, undef, undef, undef, undef, undef, undef, undef, undef, undef, undef, undef, undef], []⟩) ?_ ?_
    · refine startW (fun j => j == 5) (q1.heap.size) (by kernel_rfl) ?_
      obtain ⟨D19, hD19⟩ : ∃ D, D = q1.drew := ⟨_, rfl⟩
      rw [← hD19]
      have HLD19 : Hid (q1.heap.size ≤ D19.heap.size) := Lib.hid (by rw [hD19]; exact Nat.le_refl _)
      have HBD19 : Hid (Below w.heap.size w D19) := Lib.hid (by rw [hD19]; exact below_drewN' Bq1.out 1)
      have R0D19 : Hid (NAt D19 (w.heap.size) a) := Lib.hid (by rw [hD19]; exact Rq1.out)
      have R1D19 : Hid (NAt D19 (g) x0) := Lib.hid (by rw [hD19]; exact Tq1.out)
      have Z0D19 : Hid (ZAt D19 (w.heap.size + 1)) := Lib.hid (by rw [hD19]; exact Zq1.out)
      clear hD19
      refine takeT (i := 0) (oi := { dst := some 16, op := Op.load 23 (Operand.tmp 4), type := 23, pos := "ref.go:187", after := #[], guard := none }) (vN x0) rfl (by kernel_rfl) (by kernel_rfl) (by kernel_rfl) (by kernel_rfl) (by kernel_rfl) (fun _ _ _ h => nomatch h.1) (by rfl) (fun w' hk => exec_load23 (.tmp 4) rfl (g) x0 rfl (R1D19.out.below hk HLTg.out)) ?_
      simp only [Act.put, List.setIfInBounds_toArray, List.set_cons_zero, List.set_cons_succ]
      refine callW (i := 1) (oi := { dst := some 17, op := Op.call { callee := Callee.value (Operand.func 18), args := #[Operand.const (Value.int IntKind.u64 2)], argTypes := #[24] }, type := 23, pos := "ref.go:187", after := #[], guard := none }) rfl (by kernel_rfl) (by rfl) (exec_callL 18 [.const (.int .u64 2)] #[24] rfl [.int .u64 2] rfl (CG18 _)) ((HOf.out D19).mono ?_)
      rintro eW20 W20 ⟨rfl, hbW20⟩
      refine ⟨_, rfl, fun _ => hbW20.mono HLD19.out, ?_⟩
      have HBW20 : Hid (Below w.heap.size w W20) := Lib.hid (HBD19.out.trans (hbW20.mono HBD19.out.size))
      have HLW20 : Hid (q1.heap.size ≤ W20.heap.size) := Lib.hid (Nat.le_trans HLD19.out hbW20.size)
      have R0D19_W20 := Lib.hid (R0D19.out.keep hbW20)
      have R1D19_W20 := Lib.hid (R1D19.out.keep hbW20)
      have Z0D19_W20 := Lib.hid (Z0D19.out.keep hbW20)
      clear hbW20 HBD19 HLD19 R0D19 R1D19 Z0D19
      simp only [Act.put, List.setIfInBounds_toArray, List.set_cons_zero, List.set_cons_succ]
      refine callW (i := 2) (oi := { dst := some 18, op := Op.call { callee := Callee.value (Operand.func 64), args := #[Operand.const (Value.int IntKind.i64 1), Operand.const (Value.int IntKind.i64 2)], argTypes := #[3, 3] }, type := 23, pos := "ref.go:187", after := #[{ on := 1, ground := Ground.chain }], guard := none }) rfl (by kernel_rfl) (by rfl) (exec_callL 64 [.const (.int .i64 1), .const (.int .i64 2)] #[3, 3] rfl [.int .i64 1, .int .i64 2] rfl (CG64 _)) ((HS2.out W20).mono ?_)
      rintro eW21 W21 ⟨rfl, hbW21⟩
      refine ⟨_, rfl, fun _ => hbW21.mono HLW20.out, ?_⟩
      have HBW21 : Hid (Below w.heap.size w W21) := Lib.hid (HBW20.out.trans (hbW21.mono HBW20.out.size))
      have HLW21 : Hid (q1.heap.size ≤ W21.heap.size) := Lib.hid (Nat.le_trans HLW20.out hbW21.size)
      have R0D19_W21 := Lib.hid (R0D19_W20.out.keep hbW21)
      have R1D19_W21 := Lib.hid (R1D19_W20.out.keep hbW21)
      have Z0D19_W21 := Lib.hid (Z0D19_W20.out.keep hbW21)
      clear hbW21 HBW20 HLW20 R0D19_W20 R1D19_W20 Z0D19_W20
      simp only [Act.put, List.setIfInBounds_toArray, List.set_cons_zero, List.set_cons_succ]
      refine callW (i := 3) (oi := { dst := some 19, op := Op.call { callee := Callee.value (Operand.func 28), args := #[Operand.tmp 17, Operand.tmp 18], argTypes := #[23, 23] }, type := 23, pos := "ref.go:187", after := #[{ on := 1, ground := Ground.data }, { on := 2, ground := Ground.data }, { on := 2, ground := Ground.chain }], guard := none }) rfl (by kernel_rfl) (by rfl) (exec_callL 28 [.tmp 17, .tmp 18] #[23, 23] rfl [vN 2, vN e2] rfl (CG28 _)) ((HP2.out W21).mono ?_)
      rintro eW22 W22 ⟨rfl, hbW22⟩
      refine ⟨_, rfl, fun _ => hbW22.mono HLW21.out, ?_⟩
      have HBW22 : Hid (Below w.heap.size w W22) := Lib.hid (HBW21.out.trans (hbW22.mono HBW21.out.size))
      have HLW22 : Hid (q1.heap.size ≤ W22.heap.size) := Lib.hid (Nat.le_trans HLW21.out hbW22.size)
      have R0D19_W22 := Lib.hid (R0D19_W21.out.keep hbW22)
      have R1D19_W22 := Lib.hid (R1D19_W21.out.keep hbW22)
      have Z0D19_W22 := Lib.hid (Z0D19_W21.out.keep hbW22)
      clear hbW22 HBW21 HLW21 R0D19_W21 R1D19_W21 Z0D19_W21
      simp only [Act.put, List.setIfInBounds_toArray, List.set_cons_zero, List.set_cons_succ]
      refine callW (i := 4) (oi := { dst := some 20, op := Op.call { callee := Callee.value (Operand.func 26), args := #[Operand.tmp 16, Operand.tmp 19], argTypes := #[23, 23] }, type := 23, pos := "ref.go:187", after := #[{ on := 0, ground := Ground.data }, { on := 3, ground := Ground.data }, { on := 3, ground := Ground.chain }], guard := none }) rfl (by kernel_rfl) (by rfl) (exec_callL 26 [.tmp 16, .tmp 19] #[23, 23] rfl [vN x0, vN i] rfl (CG26 _)) ((HM3.out W22).mono ?_)
      rintro eW23 W23 ⟨rfl, hbW23⟩
      refine ⟨_, rfl, fun _ => hbW23.mono HLW22.out, ?_⟩
      have HBW23 : Hid (Below w.heap.size w W23) := Lib.hid (HBW22.out.trans (hbW23.mono HBW22.out.size))
      have HLW23 : Hid (q1.heap.size ≤ W23.heap.size) := Lib.hid (Nat.le_trans HLW22.out hbW23.size)
      have R0D19_W23 := Lib.hid (R0D19_W22.out.keep hbW23)
      have R1D19_W23 := Lib.hid (R1D19_W22.out.keep hbW23)
      have Z0D19_W23 := Lib.hid (Z0D19_W22.out.keep hbW23)
      clear hbW23 HBW22 HLW22 R0D19_W22 R1D19_W22 Z0D19_W22
      simp only [Act.put, List.setIfInBounds_toArray, List.set_cons_zero, List.set_cons_succ]
      obtain ⟨tgW24, htgW24⟩ := R1D19_W23.out
      refine storeW_all (i := 5) (oi := { dst := none, op := Op.store 23 (Operand.tmp 4) (Operand.tmp 20), type := 0, pos := "ref.go:187", after := #[{ on := 4, ground := Ground.data }, { on := 4, ground := Ground.chain }, { on := 0, ground := Ground.phase }, { on := 1, ground := Ground.phase }, { on := 2, ground := Ground.phase }, { on := 3, ground := Ground.phase }, { on := 4, ground := Ground.phase }], guard := none }) rfl (by kernel_rfl) (by rfl) 23 (.tmp 4) (.tmp 20) rfl g rfl (bcs (enc x1)).toArray rfl tgW24 _ htgW24 (by rw [List.size_toArray, bcs_enc_len]; exact size23) (by rw [List.size_toArray, List.size_toArray, bcs_enc_len, bcs_enc_len]) (bcs_one _) rfl ?_
      intro W24 hhW24 hgW24 hzW24
      simp only [Act.put, List.setIfInBounds_toArray, List.set_cons_zero, List.set_cons_succ]
      have RAW24 := Lib.hid (R0D19_W23.out.grown hgW24 (by have := HGN.out; simp; omega))
      have ZAW24 := Lib.hid (Z0D19_W23.out.grown hgW24 (by have := HGN.out; simp; omega))
      have TAW24 : Hid (NAt W24 g x1) := Lib.hid ⟨tgW24, hhW24⟩
      have HBW24 : Hid (Below w.heap.size w W24) := Lib.hid (HBW23.out.grown hgW24 HBW23.out.size (fun r hr => by have := HGN.out; injection hr with hr; omega))
      refine doneW (by kernel_rfl) ⟨rfl, ?_⟩ _
      exact ⟨RAW24.out, ZAW24.out, TAW24.out, HBW24.out, rfl⟩
    rintro a' x5 ⟨h1, h2, h3, h5, rfl⟩
    have R5 := Lib.hid h1
    have Z5 := Lib.hid h2
    have T5 := Lib.hid h3
    have B5 := Lib.hid h5
    clear h1 h2 h3 h5 Rq1 Zq1 Tq1 Bq1 HLTwheapsize HLTwheapsizep1 HLTg
    go_wp2_with fail
    cases b2
    · refine region_wq (by kernel_rfl) (by kernel_rfl) ?_
      refine wq_load rfl (.tmp 4) rfl (g) x1 rfl T5.out ?_
      simp only [Act.put, List.setIfInBounds_toArray, List.set_cons_zero, List.set_cons_succ]
      refine wq_load rfl (.tmp 4) rfl (g) x1 rfl T5.out ?_
      simp only [Act.put, List.setIfInBounds_toArray, List.set_cons_zero, List.set_cons_succ]
      refine wq_call rfl 26 [.tmp 21, .tmp 22] #[23, 23] rfl [vN x1, vN x1] rfl (CG26 _) (vN m1) HM4.out ?_
      simp only [Act.put, List.setIfInBounds_toArray, List.set_cons_zero, List.set_cons_succ]
      refine wq_load rfl (.tmp 1) rfl (w.heap.size) a rfl R5.out ?_
      simp only [Act.put, List.setIfInBounds_toArray, List.set_cons_zero, List.set_cons_succ]
      refine wq_call rfl 34 [.tmp 23, .tmp 24] #[23, 23] rfl [vN m1, vN a] rfl (CG34 _) (.bool false) HB2.out ?_
      simp only [Act.put, List.setIfInBounds_toArray, List.set_cons_zero, List.set_cons_succ]
      refine wq_not rfl 4 (.tmp 25) rfl false rfl ?_
      rw [show (!false) = true from rfl]
      simp only [Act.put, List.setIfInBounds_toArray, List.set_cons_zero, List.set_cons_succ]
      refine wq_nil ?_
      intro q2 hb
      have Rq2 := Lib.hid (R5.out.keep hb)
      have Zq2 := Lib.hid (Z5.out.keep hb)
      have Tq2 := Lib.hid (T5.out.keep hb)
      have Bq2 : Hid (Below w.heap.size w q2) := Lib.hid (B5.out.trans (hb.mono B5.out.size))
      clear hb R5 Z5 T5 B5
      have hx : (xx, ok) = (0, false) := HX.out
      obtain ⟨rfl, rfl⟩ := Prod.mk.inj hx
      clear hx HX
      go_wp2_with (first | ((with_reducible show wpList _ _ _ (⟨_, .build 23 _, _, _, _, _⟩ :: _) _ _); go_must (refine wpList_exec rfl (vN 0) (exec_build0 rfl) ?_)) | ((with_reducible show wpList _ _ _ (⟨none, .store 23 (.tmp 2) (.tmp 27), _, _, _, _⟩ :: _) _ _); go_must (refine wpList_store_all rfl 23 (.tmp 2) (.tmp 27) rfl (w.heap.size + 1) rfl (bcs (enc 0)).toArray rfl 23 _ Zq2.out (by rw [List.size_toArray, bcs_enc_len]; exact size23) (by rw [List.size_toArray, bcs_enc_len]; rfl) (bcs_one _) ?_; intro y1 hh hg hz; have HH := Lib.hid hh; have HBel : Hid (Below w.heap.size w y1) := Bq2.out.grown hg Bq2.out.size (fun r hr => by injection hr with hr; omega); clear hh hg hz)))
      exact bodyPost_ret (results_cell2 rfl _ _ (w.heap.size + 1) 23 (bcs (enc 0)).toArray (0, 0) _ rfl HH.out under23 rfl (by rw [List.size_toArray, bcs_enc_len]; exact size23)) rfl ⟨rfl, HBel.out⟩
    · refine region_wq (by kernel_rfl) (by kernel_rfl) ?_
      refine wq_load rfl (.tmp 4) rfl (g) x1 rfl T5.out ?_
      simp only [Act.put, List.setIfInBounds_toArray, List.set_cons_zero, List.set_cons_succ]
      refine wq_load rfl (.tmp 4) rfl (g) x1 rfl T5.out ?_
      simp only [Act.put, List.setIfInBounds_toArray, List.set_cons_zero, List.set_cons_succ]
      refine wq_call rfl 26 [.tmp 21, .tmp 22] #[23, 23] rfl [vN x1, vN x1] rfl (CG26 _) (vN m1) HM4.out ?_
      simp only [Act.put, List.setIfInBounds_toArray, List.set_cons_zero, List.set_cons_succ]
      refine wq_load rfl (.tmp 1) rfl (w.heap.size) a rfl R5.out ?_
      simp only [Act.put, List.setIfInBounds_toArray, List.set_cons_zero, List.set_cons_succ]
      refine wq_call rfl 34 [.tmp 23, .tmp 24] #[23, 23] rfl [vN m1, vN a] rfl (CG34 _) (.bool true) HB2.out ?_
      simp only [Act.put, List.setIfInBounds_toArray, List.set_cons_zero, List.set_cons_succ]
      refine wq_not rfl 4 (.tmp 25) rfl true rfl ?_
      rw [show (!true) = false from rfl]
      simp only [Act.put, List.setIfInBounds_toArray, List.set_cons_zero, List.set_cons_succ]
      refine wq_nil ?_
      intro q3 hb
      have Rq3 := Lib.hid (R5.out.keep hb)
      have Zq3 := Lib.hid (Z5.out.keep hb)
      have Tq3 := Lib.hid (T5.out.keep hb)
      have Bq3 : Hid (Below w.heap.size w q3) := Lib.hid (B5.out.trans (hb.mono B5.out.size))
      clear hb R5 Z5 T5 B5
      go_wp2_with (first | ((with_reducible show wpList _ _ _ (⟨_, .load 23 (.tmp 4), _, _, _, _⟩ :: _) _ _); go_must (refine wpList_exec rfl (vN x1) (exec_load23 (.tmp 4) rfl (g) x1 rfl Tq3.out) ?_)) | fail)
      refine (HO1.out _).mono ?_
      rintro ex x8 ⟨rfl, hb⟩
      have Z8 := Lib.hid (Zq3.out.keep hb)
      have T8 := Lib.hid (Tq3.out.keep hb)
      have B8 : Hid (Below w.heap.size w x8) := Lib.hid (Bq3.out.trans (hb.mono Bq3.out.size))
      clear hb Zq3 Tq3 Rq3 Bq3
      cases o1
      · have hx : (xx, ok) = (x1, true) := HX.out
        obtain ⟨rfl, rfl⟩ := Prod.mk.inj hx
        clear hx HX
        go_wp2_with (first | ((with_reducible show wpList _ _ _ (⟨_, .load 23 (.tmp 4), _, _, _, _⟩ :: _) _ _); go_must (refine wpList_exec rfl (vN xx) (exec_load23 (.tmp 4) rfl (g) xx rfl T8.out) ?_)) | ((with_reducible show wpList _ _ _ (⟨none, .store 23 (.tmp 2) (.tmp 32), _, _, _, _⟩ :: _) _ _); go_must (refine wpList_store_all rfl 23 (.tmp 2) (.tmp 32) rfl (w.heap.size + 1) rfl (bcs (enc xx)).toArray rfl 23 _ Z8.out (by rw [List.size_toArray, bcs_enc_len]; exact size23) (by rw [List.size_toArray, bcs_enc_len]; rfl) (bcs_one _) ?_; intro y1 hh hg hz; have HH := Lib.hid hh; have HBel : Hid (Below w.heap.size w y1) := B8.out.grown hg B8.out.size (fun r hr => by injection hr with hr; omega); clear hh hg hz)) | fail)
        exact bodyPost_ret (results_cell2 rfl _ _ (w.heap.size + 1) 23 (bcs (enc xx)).toArray (0, 0) _ rfl HH.out under23 rfl (by rw [List.size_toArray, bcs_enc_len]; exact size23)) rfl ⟨rfl, HBel.out⟩
      · have hx : (xx, ok) = (n1, true) := HX.out
        obtain ⟨rfl, rfl⟩ := Prod.mk.inj hx
        clear hx HX
        go_wp2_with (first | ((with_reducible show wpList _ _ _ (⟨_, .load 23 (.tmp 4), _, _, _, _⟩ :: _) _ _); go_must (refine wpList_exec rfl (vN x1) (exec_load23 (.tmp 4) rfl (g) x1 rfl T8.out) ?_)) | fail)
        refine (HN1.out _).mono ?_
        rintro ex x9 ⟨rfl, hb⟩
        have Z9 := Lib.hid (Z8.out.keep hb)
        obtain ⟨tr, htr⟩ := T8.out.keep hb
        have HTR := Lib.hid htr
        have B9 : Hid (Below w.heap.size w x9) := Lib.hid (B8.out.trans (hb.mono B8.out.size))
        clear hb Z8 T8 B8 htr
        go_wp2_with (first | ((with_reducible show wpList _ _ _ (⟨none, .store 23 (.tmp 4) (.tmp 31), _, _, _, _⟩ :: _) _ _); go_must (refine wpList_store_all rfl 23 (.tmp 4) (.tmp 31) rfl g rfl (bcs (enc xx)).toArray rfl tr _ HTR.out (by rw [List.size_toArray, bcs_enc_len]; exact size23) (by rw [List.size_toArray, List.size_toArray, bcs_enc_len, bcs_enc_len]) (bcs_one _) ?_; intro x2 hh hg hz; have TT : Hid (NAt x2 g xx) := ⟨tr, hh⟩; have ZZ : Hid (ZAt x2 (w.heap.size + 1)) := Z9.out.grown hg (by have := HGN.out; simp; omega); have BB : Hid (Below w.heap.size w x2) := B9.out.grown hg B9.out.size (fun r hr => by have := HGN.out; injection hr with hr; omega); clear hh hg hz Z9 B9 HTR)) | ((with_reducible show wpList _ _ _ (⟨_, .load 23 (.tmp 4), _, _, _, _⟩ :: _) _ _); go_must (refine wpList_exec rfl (vN xx) (exec_load23 (.tmp 4) rfl (g) xx rfl TT.out) ?_)) | ((with_reducible show wpList _ _ _ (⟨none, .store 23 (.tmp 2) (.tmp 32), _, _, _, _⟩ :: _) _ _); go_must (refine wpList_store_all rfl 23 (.tmp 2) (.tmp 32) rfl (w.heap.size + 1) rfl (bcs (enc xx)).toArray rfl 23 _ ZZ.out (by rw [List.size_toArray, bcs_enc_len]; exact size23) (by rw [List.size_toArray, bcs_enc_len]; rfl) (bcs_one _) ?_; intro y1 hh hg hz; have HH := Lib.hid hh; have HBel : Hid (Below w.heap.size w y1) := BB.out.grown hg BB.out.size (fun r hr => by injection hr with hr; omega); clear hh hg hz)) | fail)
        exact bodyPost_ret (results_cell2 rfl _ _ (w.heap.size + 1) 23 (bcs (enc xx)).toArray (0, 0) _ rfl HH.out under23 rfl (by rw [List.size_toArray, bcs_enc_len]; exact size23)) rfl ⟨rfl, HBel.out⟩
  · refine region_wq (by kernel_rfl) (by kernel_rfl) ?_
    refine wq_load rfl (.tmp 4) rfl (g) x0 rfl T3.out ?_
    simp only [Act.put, List.setIfInBounds_toArray, List.set_cons_zero, List.set_cons_succ]
    refine wq_load rfl (.tmp 4) rfl (g) x0 rfl T3.out ?_
    simp only [Act.put, List.setIfInBounds_toArray, List.set_cons_zero, List.set_cons_succ]
    refine wq_call rfl 26 [.tmp 10, .tmp 11] #[23, 23] rfl [vN x0, vN x0] rfl (CG26 _) (vN m0) HM2.out ?_
    simp only [Act.put, List.setIfInBounds_toArray, List.set_cons_zero, List.set_cons_succ]
    refine wq_load rfl (.tmp 1) rfl (w.heap.size) a rfl R3.out ?_
    simp only [Act.put, List.setIfInBounds_toArray, List.set_cons_zero, List.set_cons_succ]
    refine wq_call rfl 34 [.tmp 12, .tmp 13] #[23, 23] rfl [vN m0, vN a] rfl (CG34 _) (.bool true) HB1.out ?_
    simp only [Act.put, List.setIfInBounds_toArray, List.set_cons_zero, List.set_cons_succ]
    refine wq_not rfl 4 (.tmp 14) rfl true rfl ?_
    rw [show (!true) = false from rfl]
    simp only [Act.put, List.setIfInBounds_toArray, List.set_cons_zero, List.set_cons_succ]
    refine wq_nil ?_
    intro q4 hb
    have Rq4 := Lib.hid (R3.out.keep hb)
    have Zq4 := Lib.hid (Z3.out.keep hb)
    have Tq4 := Lib.hid (T3.out.keep hb)
    have Bq4 : Hid (Below w.heap.size w q4) := Lib.hid (B3.out.trans (hb.mono B3.out.size))
    clear hb R3 Z3 T3 B3
    go_wp2_with fail
    refine region_wq (by kernel_rfl) (by kernel_rfl) ?_
    refine wq_load rfl (.tmp 4) rfl (g) x0 rfl Tq4.out ?_
    simp only [Act.put, List.setIfInBounds_toArray, List.set_cons_zero, List.set_cons_succ]
    refine wq_load rfl (.tmp 4) rfl (g) x0 rfl Tq4.out ?_
    simp only [Act.put, List.setIfInBounds_toArray, List.set_cons_zero, List.set_cons_succ]
    refine wq_call rfl 26 [.tmp 21, .tmp 22] #[23, 23] rfl [vN x0, vN x0] rfl (CG26 _) (vN m0) HM2.out ?_
    simp only [Act.put, List.setIfInBounds_toArray, List.set_cons_zero, List.set_cons_succ]
    refine wq_load rfl (.tmp 1) rfl (w.heap.size) a rfl Rq4.out ?_
    simp only [Act.put, List.setIfInBounds_toArray, List.set_cons_zero, List.set_cons_succ]
    refine wq_call rfl 34 [.tmp 23, .tmp 24] #[23, 23] rfl [vN m0, vN a] rfl (CG34 _) (.bool true) HB1.out ?_
    simp only [Act.put, List.setIfInBounds_toArray, List.set_cons_zero, List.set_cons_succ]
    refine wq_not rfl 4 (.tmp 25) rfl true rfl ?_
    rw [show (!true) = false from rfl]
    simp only [Act.put, List.setIfInBounds_toArray, List.set_cons_zero, List.set_cons_succ]
    refine wq_nil ?_
    intro q5 hb
    have Rq5 := Lib.hid (Rq4.out.keep hb)
    have Zq5 := Lib.hid (Zq4.out.keep hb)
    have Tq5 := Lib.hid (Tq4.out.keep hb)
    have Bq5 : Hid (Below w.heap.size w q5) := Lib.hid (Bq4.out.trans (hb.mono Bq4.out.size))
    clear hb Rq4 Zq4 Tq4 Bq4
    go_wp2_with (first | ((with_reducible show wpList _ _ _ (⟨_, .load 23 (.tmp 4), _, _, _, _⟩ :: _) _ _); go_must (refine wpList_exec rfl (vN x0) (exec_load23 (.tmp 4) rfl (g) x0 rfl Tq5.out) ?_)) | fail)
    refine (HO0.out _).mono ?_
    rintro ex x8 ⟨rfl, hb⟩
    have Z8 := Lib.hid (Zq5.out.keep hb)
    have T8 := Lib.hid (Tq5.out.keep hb)
    have B8 : Hid (Below w.heap.size w x8) := Lib.hid (Bq5.out.trans (hb.mono Bq5.out.size))
    clear hb Zq5 Tq5 Rq5 Bq5
    cases o0
    · have hx : (xx, ok) = (x0, true) := HX.out
      obtain ⟨rfl, rfl⟩ := Prod.mk.inj hx
      clear hx HX
      go_wp2_with (first | ((with_reducible show wpList _ _ _ (⟨_, .load 23 (.tmp 4), _, _, _, _⟩ :: _) _ _); go_must (refine wpList_exec rfl (vN xx) (exec_load23 (.tmp 4) rfl (g) xx rfl T8.out) ?_)) | ((with_reducible show wpList _ _ _ (⟨none, .store 23 (.tmp 2) (.tmp 32), _, _, _, _⟩ :: _) _ _); go_must (refine wpList_store_all rfl 23 (.tmp 2) (.tmp 32) rfl (w.heap.size + 1) rfl (bcs (enc xx)).toArray rfl 23 _ Z8.out (by rw [List.size_toArray, bcs_enc_len]; exact size23) (by rw [List.size_toArray, bcs_enc_len]; rfl) (bcs_one _) ?_; intro y1 hh hg hz; have HH := Lib.hid hh; have HBel : Hid (Below w.heap.size w y1) := B8.out.grown hg B8.out.size (fun r hr => by injection hr with hr; omega); clear hh hg hz)) | fail)
      exact bodyPost_ret (results_cell2 rfl _ _ (w.heap.size + 1) 23 (bcs (enc xx)).toArray (0, 0) _ rfl HH.out under23 rfl (by rw [List.size_toArray, bcs_enc_len]; exact size23)) rfl ⟨rfl, HBel.out⟩
    · have hx : (xx, ok) = (n0, true) := HX.out
      obtain ⟨rfl, rfl⟩ := Prod.mk.inj hx
      clear hx HX
      go_wp2_with (first | ((with_reducible show wpList _ _ _ (⟨_, .load 23 (.tmp 4), _, _, _, _⟩ :: _) _ _); go_must (refine wpList_exec rfl (vN x0) (exec_load23 (.tmp 4) rfl (g) x0 rfl T8.out) ?_)) | fail)
      refine (HN0.out _).mono ?_
      rintro ex x9 ⟨rfl, hb⟩
      have Z9 := Lib.hid (Z8.out.keep hb)
      obtain ⟨tr, htr⟩ := T8.out.keep hb
      have HTR := Lib.hid htr
      have B9 : Hid (Below w.heap.size w x9) := Lib.hid (B8.out.trans (hb.mono B8.out.size))
      clear hb Z8 T8 B8 htr
      go_wp2_with (first | ((with_reducible show wpList _ _ _ (⟨none, .store 23 (.tmp 4) (.tmp 31), _, _, _, _⟩ :: _) _ _); go_must (refine wpList_store_all rfl 23 (.tmp 4) (.tmp 31) rfl g rfl (bcs (enc xx)).toArray rfl tr _ HTR.out (by rw [List.size_toArray, bcs_enc_len]; exact size23) (by rw [List.size_toArray, List.size_toArray, bcs_enc_len, bcs_enc_len]) (bcs_one _) ?_; intro x2 hh hg hz; have TT : Hid (NAt x2 g xx) := ⟨tr, hh⟩; have ZZ : Hid (ZAt x2 (w.heap.size + 1)) := Z9.out.grown hg (by have := HGN.out; simp; omega); have BB : Hid (Below w.heap.size w x2) := B9.out.grown hg B9.out.size (fun r hr => by have := HGN.out; injection hr with hr; omega); clear hh hg hz Z9 B9 HTR)) | ((with_reducible show wpList _ _ _ (⟨_, .load 23 (.tmp 4), _, _, _, _⟩ :: _) _ _); go_must (refine wpList_exec rfl (vN xx) (exec_load23 (.tmp 4) rfl (g) xx rfl TT.out) ?_)) | ((with_reducible show wpList _ _ _ (⟨none, .store 23 (.tmp 2) (.tmp 32), _, _, _, _⟩ :: _) _ _); go_must (refine wpList_store_all rfl 23 (.tmp 2) (.tmp 32) rfl (w.heap.size + 1) rfl (bcs (enc xx)).toArray rfl 23 _ ZZ.out (by rw [List.size_toArray, bcs_enc_len]; exact size23) (by rw [List.size_toArray, bcs_enc_len]; rfl) (bcs_one _) ?_; intro y1 hh hg hz; have HH := Lib.hid hh; have HBel : Hid (Below w.heap.size w y1) := BB.out.grown hg BB.out.size (fun r hr => by injection hr with hr; omega); clear hh hg hz)) | fail)
      exact bodyPost_ret (results_cell2 rfl _ _ (w.heap.size + 1) 23 (bcs (enc xx)).toArray (0, 0) _ rfl HH.out under23 rfl (by rw [List.size_toArray, bcs_enc_len]; exact size23)) rfl ⟨rfl, HBel.out⟩
end Go.Proofs.Ytgdimnbdnepbgaa
/- The reference's functions in numbers: their right sides are those of the program's. No statement is proved here. -/
namespace Go.Proofs.Ytgdimnbdnepbgaa
open Go.RowKit
set_option linter.unusedVariables false
set_option maxRecDepth 40000
set_option linter.unusedSimpArgs false

theorem rOpen (a : Nat) (ha : a < TT) : ∃ z, R10 z ∧ val10 z % PP = a % PP ∧ ∀ w, Calls Try.prog 68 #[vN a] w (Gives (.agg (ics z).toArray) w) := by
  obtain ⟨z, h1, h2, h3⟩ := Open_gives (enc a) (enc_len a)
  rw [nv_enc a ha] at h2
  exact ⟨z, h1, h2, h3⟩
theorem rRest_any (a : Nat) (ha : a < TT) (w : World) : Calls Try.prog 14 #[vN a] w (Gives (vN (a % PP)) w) := by
  obtain ⟨z, h1, h2, h3⟩ := rOpen a ha
  rw [← h2]
  exact rRest_core a _ z w (Lib.hid h3) (Lib.hid fun w => Close_gives z h1 w)
theorem rAdd_any (a b : Nat) (ha : a < TT) (hb : b < TT) (w : World) : Calls Try.prog 20 #[vN a, vN b] w (Gives (vN ((a + b) % PP)) w) := by
  obtain ⟨x, x1, x2, x3⟩ := rOpen a ha
  obtain ⟨y, y1, y2, y3⟩ := rOpen b hb
  obtain ⟨z, z1, z2, z3⟩ := Plus_gives x y x1 y1
  rw [Nat.add_mod, ← x2, ← y2, ← Nat.add_mod, ← z2]
  exact rAdd_core a b _ x y z w (Lib.hid x3) (Lib.hid y3) (Lib.hid z3) (Lib.hid fun w => Close_gives z z1 w)
theorem sub_res (a b z : Nat) (h : (z + b) % PP = a % PP) : (a + (PP - b % PP)) % PP = z % PP := by
  have hb : b % PP < PP := modP b
  have e : (a + (PP - b % PP)) % PP = ((z + b) + (PP - b % PP)) % PP := by rw [Nat.add_mod, ← h, ← Nat.add_mod]
  rw [e]
  have hd := Nat.div_add_mod b PP
  rw [show z + b + (PP - b % PP) = z + PP * (b / PP + 1) from by rw [Nat.mul_add]; omega, Nat.add_mul_mod_self_left]
theorem rSub_any (a b : Nat) (ha : a < TT) (hb : b < TT) (w : World) : Calls Try.prog 22 #[vN a, vN b] w (Gives (vN ((a + (PP - b % PP)) % PP)) w) := by
  obtain ⟨x, x1, x2, x3⟩ := rOpen a ha
  obtain ⟨y, y1, y2, y3⟩ := rOpen b hb
  obtain ⟨z, z1, z2, z3⟩ := Minus_gives x y x1 y1
  have e : (a + (PP - b % PP)) % PP = val10 z % PP := by
    refine sub_res a b _ ?_
    rw [Nat.add_mod, ← y2, ← Nat.add_mod, z2, x2]
  rw [e]
  exact rSub_core a b _ x y z w (Lib.hid x3) (Lib.hid y3) (Lib.hid z3) (Lib.hid fun w => Close_gives z z1 w)
theorem rMul_any (a b : Nat) (ha : a < TT) (hb : b < TT) (w : World) : Calls Try.prog 26 #[vN a, vN b] w (Gives (vN (a * b % PP)) w) := by
  obtain ⟨x, x1, x2, x3⟩ := rOpen a ha
  obtain ⟨y, y1, y2, y3⟩ := rOpen b hb
  obtain ⟨z, z1, z2, z3⟩ := Times_gives x y x1 y1
  rw [Nat.mul_mod, ← x2, ← y2, ← Nat.mul_mod, ← z2]
  exact rMul_core a b _ x y z w (Lib.hid x3) (Lib.hid y3) (Lib.hid z3) (Lib.hid fun w => Close_gives z z1 w)
theorem rPow_any (a e : Nat) (ha : a < TT) (he : e < TT) (w : World) : Calls Try.prog 28 #[vN a, vN e] w (Gives (vN (a ^ e % PP)) w) := by
  obtain ⟨x, x1, x2, x3⟩ := rOpen a ha
  rw [Nat.pow_mod, ← x2, ← Nat.pow_mod]
  refine rPow_core a e _ x (fun o => R10 o ∧ val10 o % PP = val10 x ^ e % PP) w (Lib.hid x3) (Lib.hid fun w => ?_) (Lib.hid fun z hz w => ?_)
  · refine (Power_core x (enc e) w (Lib.hid x1) (Lib.hid (enc_len e))).mono ?_
    rintro r w' ⟨o, h1, h2, h3, h4⟩
    rw [nv_enc e he] at h2
    exact ⟨o, ⟨h1, h2⟩, h3, h4⟩
  · rw [← hz.2]
    exact Close_gives z hz.1 w
theorem rNeg_any (a : Nat) (ha : a < TT) (w : World) : Calls Try.prog 24 #[vN a] w (Gives (vN ((PP - a % PP) % PP)) w) := by
  have h : ∀ w, Calls Try.prog 22 #[vN 0, vN a] w (Gives (vN ((0 + (PP - a % PP)) % PP)) w) := fun w => rSub_any 0 a (by unfold TT; omega) ha w
  rw [Nat.zero_add] at h
  exact rNeg_core a _ w (Lib.hid h)
theorem rCanon_any (a : Nat) (ha : a < TT) (w : World) : Calls Try.prog 16 #[vN a] w (Gives (.bool (decide (a = a % PP))) w) := by
  have h := rCanon_core a (a % PP) _ w (Lib.hid fun w => rRest_any a ha w) (Lib.hid fun w => eqN _ a (modT a) ha w)
  rw [show decide (a % PP = a) = decide (a = a % PP) from by simp [eq_comm]] at h
  exact h
theorem rem_two : ∀ x : Nat, x < 256 → (((x : Int)).tmod 2 == 1) = decide (x % 2 = 1) := by decide +kernel
theorem rOdd_any (a : Nat) (ha : a < TT) (w : World) : Calls Try.prog 32 #[vN a] w (Gives (.bool (decide (a % PP % 2 = 1))) w) := by
  refine rOdd_core a (a % PP) _ w (Lib.hid fun w => rRest_any a ha w) (Lib.hid fun w => index_first _ w) ?_
  have h := rem_two (a % PP % 256) (Nat.mod_lt _ (by omega))
  rw [show a % PP % 256 % 2 = a % PP % 2 from Nat.mod_mod_of_dvd _ ⟨128, by decide⟩] at h
  exact Lib.hid h
theorem rSame_any (a b : Nat) (ha : a < TT) (hb : b < TT) (w : World) : Calls Try.prog 34 #[vN a, vN b] w (Gives (.bool (decide (a % PP = b % PP))) w) :=
  rSame_core a b (a % PP) (b % PP) _ w (Lib.hid fun w => rRest_any a ha w) (Lib.hid fun w => rRest_any b hb w) (Lib.hid fun w => eqN _ _ (modT a) (modT b) w)
theorem shifted_inv (q : Nat) (hq : PP = q + 2) (w : World) : Calls Try.prog 64 #[.int .i64 2, .int .i64 0] w (Gives (vN q) w) := by
  have h := shifted_core 2 0 57896044618658097711785492504343953926634992332820282019728792003956564819947 (by omega) (by omega) (Lib.hid (by decide +kernel)) (Lib.hid (by unfold TT; omega)) w
  rw [show 57896044618658097711785492504343953926634992332820282019728792003956564819947 / 2 ^ 0 = q from by unfold PP at hq; omega] at h
  exact h
theorem shifted_quarter (k : Nat) (hk : PP = 8 * k + 5) (w : World) : Calls Try.prog 64 #[.int .i64 1, .int .i64 2] w (Gives (vN (2 * k + 1)) w) := by
  have h := shifted_core 1 2 57896044618658097711785492504343953926634992332820282019728792003956564819948 (by omega) (by omega) (Lib.hid (by decide +kernel)) (Lib.hid (by unfold TT; omega)) w
  rw [show 57896044618658097711785492504343953926634992332820282019728792003956564819948 / 2 ^ 2 = 2 * k + 1 from by unfold PP at hk; omega] at h
  exact h
theorem shifted_eighth (k : Nat) (hk : PP = 8 * k + 5) (w : World) : Calls Try.prog 64 #[.int .i64 5, .int .i64 3] w (Gives (vN k) w) := by
  have h := shifted_core 5 3 57896044618658097711785492504343953926634992332820282019728792003956564819944 (by omega) (by omega) (Lib.hid (by decide +kernel)) (Lib.hid (by unfold TT; omega)) w
  rw [show 57896044618658097711785492504343953926634992332820282019728792003956564819944 / 2 ^ 3 = k from by unfold PP at hk; omega] at h
  exact h
theorem rInv_any (q : Nat) (hq : PP = q + 2) (a : Nat) (ha : a < TT) (w : World) : Calls Try.prog 30 #[vN a] w (Gives (vN (a ^ q % PP)) w) :=
  rInv_core a q _ w (Lib.hid (shifted_inv q hq)) (Lib.hid fun w => rPow_any a q ha (by have := PP_lt; omega) w)
/-- The square of what is multiplied by a root of -1. -/
theorem minus_sq (p m c i : Nat) (hp : 0 < p) (hi : i * i % p = p - 1) (x : Nat) (hm : x * x % p = m) (hc : c < p) : (x * i % p * (x * i % p) % p = c) ↔ (m = (p - c) % p) := by
  have hmp : m < p := by rw [← hm]; exact Nat.mod_lt _ hp
  have e : x * i % p * (x * i % p) % p = m * (p - 1) % p := by
    rw [← Nat.mul_mod, show x * i * (x * i) = (x * x) * (i * i) from by ac_rfl, Nat.mul_mod, hm, hi]
  have e2 : m * (p - 1) % p = (p - m) % p := by
    have : m * (p - 1) + m = p * m := by rw [← Nat.mul_succ, show (p - 1).succ = p from by omega, Nat.mul_comm]
    by_cases h0 : m = 0
    · subst h0; simp
    · have h1 : m * (p - 1) = p * (m - 1) + (p - m) := by
        have : p * m = p * (m - 1) + p := by rw [← Nat.mul_succ]; congr 1; omega
        omega
      rw [h1, Nat.mul_add_mod]
  rw [e, e2]
  by_cases h0 : m = 0
  · subst h0
    rw [Nat.sub_zero, Nat.mod_self]
    by_cases hc0 : c = 0
    · subst hc0; simp
    · rw [Nat.mod_eq_of_lt (show p - c < p by omega)]
      omega
  · rw [Nat.mod_eq_of_lt (show p - m < p by omega)]
    by_cases hc0 : c = 0
    · subst hc0; rw [Nat.sub_zero, Nat.mod_self]; omega
    · rw [Nat.mod_eq_of_lt (show p - c < p by omega)]
      omega
theorem rRoot_any (k : Nat) (hk : PP = 8 * k + 5) (a : Nat) (ha : a < TT) (w : World) : Calls Try.prog 12 #[vN a] w (Gives (.tuple #[vN (rt PP k a).1, .bool (rt PP k a).2]) w) := by
  have hr : a ^ k % PP * a % PP = (a % PP) ^ (k + 1) % PP := by
    rw [← Nat.pow_mod, Nat.pow_succ, Nat.mod_mul_mod]
  have hi : 2 ^ (2 * k + 1) % PP * (2 ^ (2 * k + 1) % PP) % PP = PP - 1 := by
    rw [← Nat.mul_mod, ← Nat.pow_add, show 2 * k + 1 + (2 * k + 1) = 4 * k + 2 from by omega, htwo k hk]
  have hS1 := shifted_eighth k hk
  have hS2 := shifted_quarter k hk
  have hP1 : ∀ w, Calls Try.prog 28 #[vN a, vN k] w (Gives (vN (a ^ k % PP)) w) := fun w => rPow_any a k ha (by have := PP_lt; omega) w
  have hP2 : ∀ w, Calls Try.prog 28 #[vN 2, vN (2 * k + 1)] w (Gives (vN (2 ^ (2 * k + 1) % PP)) w) := fun w => rPow_any 2 (2 * k + 1) (by unfold TT; omega) (by have := PP_lt; omega) w
  have hM1 : ∀ w, Calls Try.prog 26 #[vN (a ^ k % PP), vN a] w (Gives (vN ((a % PP) ^ (k + 1) % PP)) w) := fun w => by
    rw [← hr]
    exact rMul_any _ _ (modT _) ha w
  have hi2 : 2 ^ (2 * k + 1) % PP < PP := modP _
  have hr2 : (a % PP) ^ (k + 1) % PP < PP := modP _
  unfold rt
  generalize (a % PP) ^ (k + 1) % PP = x at *
  generalize 2 ^ (2 * k + 1) % PP = i at *
  generalize a ^ k % PP = r at *
  have hm := minus_sq PP (x * x % PP) (a % PP) i (by unfold PP; omega) hi x rfl (modP a)
  have hx := Nat.lt_trans hr2 PP_lt
  have hE : ∀ y, y < PP → evn PP y = (if decide (y % PP % 2 = 1) then (PP - y % PP) % PP else y) := fun y hy => by
    unfold evn
    rw [Nat.mod_eq_of_lt hy]
    simp
  have hmm : x * x % PP % PP = x * x % PP := Nat.mod_mod _ _
  have hmm1 : x * i % PP * (x * i % PP) % PP % PP = x * i % PP * (x * i % PP) % PP := Nat.mod_mod _ _
  have key := fun (xx : Nat) (ok : Bool) (h : (xx, ok) = (if decide (x * x % PP % PP = a % PP) then (if decide (x % PP % 2 = 1) then (PP - x % PP) % PP else x, true) else if decide (x * i % PP * (x * i % PP) % PP % PP = a % PP) then (if decide (x * i % PP % PP % 2 = 1) then (PP - x * i % PP % PP) % PP else x * i % PP, true) else (0, false))) =>
    rRoot_core a k r x (x * x % PP) (2 * k + 1) i (x * i % PP) (x * i % PP * (x * i % PP) % PP) ((PP - x % PP) % PP) ((PP - x * i % PP % PP) % PP) xx _ _ _ _ ok w (Lib.hid hS1) (Lib.hid hP1) (Lib.hid hM1) (Lib.hid fun w => rMul_any x x hx hx w) (Lib.hid fun w => rSame_any _ a (modT _) ha w)
      (Lib.hid fun w => rOf_core 2 (by omega) w) (Lib.hid hS2) (Lib.hid hP2) (Lib.hid fun w => rMul_any x i hx (Nat.lt_trans hi2 PP_lt) w) (Lib.hid fun w => rMul_any _ _ (modT _) (modT _) w) (Lib.hid fun w => rSame_any _ a (modT _) ha w)
      (Lib.hid fun w => rOdd_any x hx w) (Lib.hid fun w => rNeg_any x hx w) (Lib.hid fun w => rOdd_any _ (modT _) w) (Lib.hid fun w => rNeg_any _ (modT _) w) (Lib.hid h)
  refine key _ _ ?_
  rw [hmm, hmm1, ← hE x hr2, ← hE (x * i % PP) (modP _)]
  by_cases h1 : x * x % PP = a % PP
  · simp [h1]
  · by_cases h2 : x * x % PP = (PP - a % PP) % PP
    · have h3 := hm.2 h2
      simp only [h1, h2, h3, decide_true, decide_false, if_true, if_false]
      simp
    · have h3 : ¬ x * i % PP * (x * i % PP) % PP = a % PP := fun h => h2 (hm.1 h)
      simp only [h1, h2, h3, decide_true, decide_false, if_true, if_false]
      simp
end Go.Proofs.Ytgdimnbdnepbgaa
/- The lexical order of a long region, checked in fewer steps. No statement is proved here. -/
namespace Go.Proofs.Ytgdimnbdnepbgaa
open Go.RowKit
set_option linter.unusedVariables false
set_option linter.unusedSimpArgs false

def lstd (k m : Nat) : Array Bool := (List.replicate k true ++ List.replicate m false).toArray
theorem lstd_get (k m j : Nat) (d : Bool) : (lstd k m).getD j d = if j < k then true else if j < k + m then false else d := by
  unfold lstd
  rw [Array.getD_eq_getD_getElem?, List.getElem?_toArray]
  by_cases h : j < k
  · rw [if_pos h, List.getElem?_append_left (by simpa using h), List.getElem?_replicate, if_pos h]; rfl
  · rw [if_neg h, List.getElem?_append_right (by simpa using Nat.le_of_not_lt h), List.getElem?_replicate, List.length_replicate]
    by_cases h2 : j < k + m
    · rw [if_pos h2, if_pos (by omega)]; rfl
    · rw [if_neg h2, if_neg (by omega)]; rfl
theorem lstd_set (k m : Nat) : (lstd k (m + 1)).setIfInBounds k true = lstd (k + 1) m := by
  unfold lstd
  apply Array.toList_inj.1
  rw [Array.toList_setIfInBounds]
  show (List.replicate k true ++ List.replicate (m + 1) false).set k true = List.replicate (k + 1) true ++ List.replicate m false
  rw [List.set_append_right _ _ (by simp), List.length_replicate, Nat.sub_self, List.replicate_succ, List.set_cons_zero]
  simp [List.replicate_succ', List.append_assoc]
def stepsOk (md : Region.Mode) (ops : Array Oper) : Nat → List Oper → Bool
  | _, [] => true
  | k, o :: l => (o.after.all fun e => !Region.binds md e || decide (e.on < k)) && ((l.all fun oj => oj.after.any (fun e => Region.binds md e && e.on == k) || o.apart ops oj) && stepsOk md ops (k + 1) l)
theorem lex_steps (md : Region.Mode) (ops : Array Oper) : ∀ (l : List Oper) (k : Nat), (∀ j, l[j]? = ops[k + j]?) → k + l.length = ops.size → stepsOk md ops k l = true → Region.lexFrom md ops l.length k (lstd k l.length) = true
  | [], k, _, hn, _ => by
    show (Region.ready md ops (lstd k 0)).isEmpty = true
    rw [List.isEmpty_iff, List.eq_nil_iff_forall_not_mem]
    intro j hj
    have h := (mem_ready.1 hj).1
    rw [lstd_get] at h
    by_cases h1 : j < k
    · rw [if_pos h1] at h; cases h
    · rw [if_neg h1, if_neg (by simpa using h1)] at h; cases h
  | o :: l, k, hl, hn, h => by
    have h0 : ops[k]? = some o := by simpa using (hl 0).symm
    simp only [stepsOk, Bool.and_eq_true] at h
    obtain ⟨h1, h2, h3⟩ := h
    show ((Region.ready md ops (lstd k (l.length + 1))).contains k && Region.free md ops (lstd k (l.length + 1)) k && Region.lexFrom md ops l.length (k + 1) ((lstd k (l.length + 1)).setIfInBounds k true)) = true
    rw [lstd_set, lex_steps md ops l (k + 1) (fun j => by have := hl (j + 1); simpa [Nat.add_assoc, Nat.add_comm 1 j] using this) (by simp only [List.length_cons] at hn; omega) h3, Bool.and_true, Bool.and_eq_true]
    constructor
    · rw [List.contains_iff_mem, mem_ready]
      refine ⟨by rw [lstd_get, if_neg (by omega), if_pos (by omega)], o, h0, fun e he hb => ?_⟩
      have := Array.all_eq_true_iff_forall_mem.1 h1 e he
      rw [hb] at this
      simp at this
      rw [lstd_get, if_pos this]
    · unfold Region.free
      rw [h0]
      simp only
      rw [List.all_eq_true]
      intro j hj
      rw [List.mem_range] at hj
      by_cases hjk : j = k
      · subst hjk; simp
      · by_cases hlt : j < k
        · rw [lstd_get, if_pos hlt]; simp
        · obtain ⟨i, rfl⟩ : ∃ i, j = k + (i + 1) := ⟨j - k - 1, by omega⟩
          have hli : (o :: l)[i + 1]? = ops[k + (i + 1)]? := hl (i + 1)
          rw [List.getElem?_cons_succ] at hli
          rw [← hli]
          cases ho : l[i]? with
          | none => simp
          | some oj =>
            have hm := List.mem_of_getElem? ho
            have := List.all_eq_true.1 h2 oj hm
            simp only [Bool.or_eq_true] at this ⊢
            exact .inr this
theorem lexB_steps (md : Region.Mode) (l : List Oper) (h1 : Region.noSelect l.toArray = true) (h2 : stepsOk md l.toArray 0 l = true) : Region.lexB md l.toArray = true := by
  unfold Region.lexB
  rw [h1, Bool.true_and]
  have h := lex_steps md l.toArray l 0 (fun j => by rw [Nat.zero_add, List.getElem?_toArray]) (by simp) h2
  have e : (Array.replicate l.toArray.size false) = lstd 0 l.length := by
    unfold lstd
    apply Array.toList_inj.1
    simp
  rw [e]
  simpa using h
/-- A long region. -/
theorem region_wq2 {id : Nat} {Q : Exit → Act → World → Prop} {a : Act} {w : World} {l : List Oper} (hm : Try.prog.follows .mixedOrders = true) (h1 : Region.noSelect l.toArray = true) (h2 : stepsOk .any l.toArray 0 l = true)
    (h : WQ Try.prog l.toArray (CB w) (fun a' => ∀ w', Below w.heap.size w w' → Q .normal a' w') l a) : (Code.region id l.toArray true).wp Try.prog Q a w := region_wq hm (lexB_steps _ _ h1 h2) h
end Go.Proofs.Ytgdimnbdnepbgaa
