/- RecordNames: its walk. No condition. -/
import Derived.Test.YtkglicidjdifkaaNM
import Derived.Test.YtkglicidjdifkaaNE
import Derived.Lib.SlBytesConst
namespace Go.Proofs.Ytkglicidjdifkaa
open Go.RowKit
set_option linter.unusedVariables false
set_option linter.unusedSimpArgs false
theorem Src.lit (w : World) (cs : Array Value) (fz : Nat × Nat) (l : List UInt8) (h : cs.toList = bcs l) (hl : l.length ≤ 1000) : Src (w.alloc (.cells cs 5 fz)) (· < w.heap.size + 1) (some ⟨w.heap.size, 0, none⟩) l.length (bcs l) := by
  refine ⟨bcs_len l, fun _ => ⟨w.heap.size, 0, rfl, Nat.lt_succ_self _, fun i hi => ?_⟩⟩
  have hh : (w.alloc (.cells cs 5 fz)).heap[w.heap.size]? = some (.cells cs 5 fz) := by
    show (w.heap.push (.cells cs 5 fz))[w.heap.size]? = _
    simp
  rw [Nat.zero_add, ← h]
  simp only [World.cell?, hh]
  simp
set_option maxRecDepth 100000 in
set_option maxHeartbeats 4000000 in
theorem names_core (w : World) : Calls Try.prog 3 #[] w (Gives (.bool true) w) := by
  have hcv := fun (w : World) (C : Array Value) (n c : Nat) => Lib.run_convert_bytes_const (P := Try.prog) w 26 5 C n c Try.underlying26 Try.underlying5
  have CF := Lib.hid (fun W : World => first_any W 3 (by omega))
  have CF4 := Lib.hid (fun W : World => first_any W 4 (by omega))
  have HNX := Lib.hid nx_ne
  have HL3 := Lib.hid (sum256_len (le 3 8))
  have HL4 := Lib.hid (sum256_len (le 4 8))
  generalize sum256 (le 3 8) = c3 at *
  generalize sum256 (le 4 8) = c4 at *
  have HNL := Lib.hid (nextL_len c3 9 [120, 121])
  have hRB : recB c3 9 [120, 121] = 9 :: 2 :: 120 :: 121 :: (nextL c3 9 [120, 121]).take 8 := by
    unfold recB
    rw [show ([120, 121] : List UInt8).length = 2 from rfl, hd92]
    rfl
  have hLL : (recB c3 9 [120, 121]).length = 12 := by rw [hRB]; simp [nextL_len]
  have HR7 := Lib.hid (read_rec c3 c3 9 [120, 121] [7] (by decide))
  have HR4 := Lib.hid (read_rec c3 c4 9 [120, 121] [] (by decide))
  rw [List.append_nil] at HR4
  go_enter Try.func3, Try.ntmps3
  go_wp2_with fail
  refine (CF.out w).mono ?_
  rintro e1 w1 ⟨rfl, hb1⟩
  have B1 := Lib.hid hb1
  clear hb1 CF
  go_wp2_with (first | ((with_reducible show wpList _ _ _ (⟨some 1, .alloc 23, _, _, _, _⟩ :: _) _ _); refine wpList_alloc_row rfl 23 rfl (.agg (zbs 32)) zero23 ?_; intro w2 hh2 hz2 hg2; have HA2 := Lib.hid (DAt.mk (ch := List.replicate 32 0) hh2 (by simp)); have HB2 := Lib.hid (below_of_grownBy hg2); have HZ2 := Lib.hid hz2; clear hh2 hz2 hg2) | ((with_reducible show wpList _ _ _ (⟨none, .store 23 (.tmp 1) (.tmp 16), _, _, _, _⟩ :: _) _ _); refine wpList_store_all rfl 23 (.tmp 1) (.tmp 16) rfl w1.heap.size rfl (bcs c3).toArray rfl 23 _ HA2.out.row (by rw [size23]; simp [bcs_len, HL3.out]) (by simp [bcs_len, HL3.out]) (by simpa using bcs_one _) ?_; intro w3 hh3 hg3 hz3; have HD3 := Lib.hid (DAt.mk hh3 HL3.out); have HG3 := Lib.hid hg3; clear hh3 hz3 hg3; have P3 := Lib.hid (pack2 HB2.out HD3.out HG3.out); clear HA2 HB2 HZ2 HD3 HG3) | ((with_reducible show wpList _ _ _ (⟨_, .load 23 (.tmp 1), _, _, _, _⟩ :: _) _ _); refine wpList_exec rfl _ (exec_dig rfl rfl P3.out.2) ?_))
  have B3 := Lib.hid (B1.out.trans (P3.out.1.mono B1.out.size))
  have D3 := Lib.hid P3.out.2
  clear P3 B1
  generalize w1.heap.size = g1 at *
  have hbb := build31 (w3.alloc (.cells #[.int .u8 120, .int .u8 121] 5 (2, 3))) 9 (some ⟨w3.heap.size, 0, none⟩) 2 2
  have hs3 : Src (w3.alloc (.cells #[.int .u8 120, .int .u8 121] 5 (2, 3))) (· < w3.heap.size + 1) (some ⟨w3.heap.size, 0, none⟩) 2 (bcs [120, 121]) := Src.lit w3 _ (2, 3) [120, 121] rfl (by simp)
  have HS3 := Lib.hid hs3
  clear hs3
  refine (bytes_any _ _ c3 HL3.out 9 _ 2 2 [120, 121] HS3.out (fun b hb => by simpa using hb) ⟨Nat.le_refl _, by simp [maxLen]⟩ (by omega)).mono ?_
  rintro e4 w4 ⟨h4, -, hb4⟩
  obtain ⟨v4, rfl, ho4⟩ := h4 (by decide)
  clear h4
  obtain ⟨A4, c4', rfl, hl4, hm4, hs4⟩ := ho4.src
  have B4 := Lib.hid (B3.out.trans (((below_alloc w3 (.cells #[.int .u8 120, .int .u8 121] 5 (2, 3))).mono B3.out.size).trans (hb4.mono (by have := B3.out.size; simp; omega))))
  have D4 := Lib.hid ((D3.out.below (below_alloc w3 (.cells #[.int .u8 120, .int .u8 121] 5 (2, 3))) D3.out.lt).below hb4 (by have := D3.out.lt; simp; omega))
  generalize recB c3 9 [120, 121] = Lb at *
  have S4 := Lib.hid (hs4.weak (S' := (· < w4.heap.size)) (fun b hb => hb.2))
  have M4 := Lib.hid (And.intro hl4 hm4)
  have HRB := Lib.hid hRB
  have HLL := Lib.hid hLL
  clear hLL hs4 hl4 hm4 ho4 hb4 HS3 D3 B3 hbb hRB
  go_wp2_with (first | ((with_reducible show wpList _ _ _ (⟨some 3, .alloc 23, _, _, _, _⟩ :: _) _ _); refine wpList_alloc_row rfl 23 rfl (.agg (zbs 32)) zero23 ?_; intro w5 hh5 hz5 hg5; have HA5 := Lib.hid (DAt.mk (ch := List.replicate 32 0) hh5 (by simp)); have HB5 := Lib.hid (below_of_grownBy hg5); have HZ5 := Lib.hid hz5; clear hh5 hz5 hg5) | ((with_reducible show wpList _ _ _ (⟨none, .store 23 (.tmp 3) (.tmp 24), _, _, _, _⟩ :: _) _ _); refine wpList_store_all rfl 23 (.tmp 3) (.tmp 24) rfl w4.heap.size rfl (bcs (nextL c3 9 [120, 121])).toArray rfl 23 _ HA5.out.row (by rw [size23]; simp [bcs_len, HNL.out]) (by simp [bcs_len, HNL.out]) (by simpa using bcs_one _) ?_; intro w6 hh6 hg6 hz6; have HD6 := Lib.hid (DAt.mk hh6 HNL.out); have HG6 := Lib.hid hg6; clear hh6 hz6 hg6))
  have P6 := Lib.hid (pack2 HB5.out HD6.out HG6.out)
  have B6 := Lib.hid (B4.out.trans (P6.out.1.mono B4.out.size))
  have D6 := Lib.hid (D4.out.below P6.out.1 D4.out.lt)
  have S6 := Lib.hid (S4.out.below P6.out.1 (S' := (· < w6.heap.size)) (fun b hb => Nat.lt_of_lt_of_le hb P6.out.1.size))
  have E6 := Lib.hid P6.out.2
  clear HA5 HB5 HZ5 HD6 HG6 P6 B4 D4 S4
  generalize w4.heap.size = g3 at *
  refine NM.region3 (g1 := g1) rfl rfl rfl D6.out S6.out (by have := HLL.out; omega) HNL.out ⟨by have := HR7.out.2.2; simpa using this, HR7.out.1, HR7.out.2.1, rfl⟩ ?_
  intro A7 c7 g5 g7 w7 v2 v3 v4' hb7 hg5 hg7 hr7 hd7 hc7 hm7 hs7
  simp only [Act.put, List.setIfInBounds_toArray, List.set_cons_zero, List.set_cons_succ]
  have B7 := Lib.hid (B6.out.trans (hb7.mono B6.out.size))
  have D7 := Lib.hid (D6.out.below hb7 D6.out.lt)
  have E7 := Lib.hid (E6.out.below hb7 E6.out.lt)
  have S7 := Lib.hid (S6.out.below hb7 (S' := (· < w7.heap.size)) (fun b hb => Nat.lt_of_lt_of_le hb hb7.size))
  have R7 := Lib.hid hr7
  have F7 := Lib.hid hd7
  have T7 := Lib.hid hs7
  clear B6 D6 E6 S6 hb7 hr7 hd7 hs7
  have he4 : readE c4 Lb = 4 := by have := HR4.out.2.2; rw [if_neg HNX.out] at this; exact this
  have HE4 := Lib.hid he4
  clear he4
  unfold NM.tup NM.ptr vR
  go_wp2_with fail
  refine (CF4.out w7).mono ?_
  rintro e8 w8 ⟨rfl, hb8⟩
  have B8 := Lib.hid (B7.out.trans (hb8.mono B7.out.size))
  have D8 := Lib.hid (D7.out.below hb8 D7.out.lt)
  have E8 := Lib.hid (E7.out.below hb8 E7.out.lt)
  have S8 := Lib.hid (S7.out.below hb8 (S' := (· < w8.heap.size)) (fun b hb => Nat.lt_of_lt_of_le hb hb8.size))
  have R8 := Lib.hid (R7.out.below hb8 R7.out.lt)
  have F8 := Lib.hid (F7.out.below hb8 F7.out.lt)
  have T8 := Lib.hid (T7.out.below hb8 (S' := (· < w8.heap.size)) (fun b hb => Nat.lt_of_lt_of_le hb hb8.size))
  clear B7 D7 E7 S7 R7 F7 T7 hb8 CF4
  go_wp2_with fail
  refine (recread_any w8 (· < w8.heap.size) c4 HL4.out A4 Lb.length c4' Lb S8.out (fun b hb => hb) M4.out (by have := HLL.out; omega)).mono ?_
  rintro e9 w9 ⟨-, h9, hb9⟩
  replace h9 := h9 (by rw [HE4.out]; decide)
  rw [HE4.out] at h9
  subst h9
  have B9 := Lib.hid (B8.out.trans (hb9.mono B8.out.size))
  have D9 := Lib.hid (D8.out.below hb9 D8.out.lt)
  have E9 := Lib.hid (E8.out.below hb9 E8.out.lt)
  have S9 := Lib.hid (S8.out.below hb9 (S' := (· < w9.heap.size)) (fun b hb => Nat.lt_of_lt_of_le hb hb9.size))
  have R9 := Lib.hid (R8.out.below hb9 R8.out.lt)
  have F9 := Lib.hid (F8.out.below hb9 F8.out.lt)
  have T9 := Lib.hid (T8.out.below hb9 (S' := (· < w9.heap.size)) (fun b hb => Nat.lt_of_lt_of_le hb hb9.size))
  clear B8 D8 E8 S8 R8 F8 T8 hb9 HE4
  unfold zR
  have hz := build31z
  unfold zR at hz
  have hZL : (List.replicate 32 (0 : UInt8)).length = 32 := by simp
  have HZL := Lib.hid hZL
  generalize hZZ : List.replicate 32 (0 : UInt8) = zz at *
  have HZZ := Lib.hid hZZ
  clear hZL hZZ
  go_wp2_with (first | ((with_reducible show wpList _ _ _ (⟨some 9, .alloc 31, _, _, _, _⟩ :: _) _ _); refine wpList_alloc_row rfl 31 rfl zR zero31 ?_; intro w10 hh10 hz10 hg10; have HA10 := Lib.hid (RAt.mk (k := 0) (A := none) (n := 0) (c := 0) hh10); have HB10 := Lib.hid (below_of_grownBy hg10); have HZ10 := Lib.hid hz10; clear hh10 hz10 hg10) | ((with_reducible show wpList _ _ _ (⟨some 11, .alloc 23, _, _, _, _⟩ :: _) _ _); refine wpList_alloc_row rfl 23 rfl (.agg (zbs 32)) zero23 ?_; intro w11 hh11 hz11 hg11; have HA11 := Lib.hid (DAt.mk (ch := zz) (by rw [← HZZ.out]; exact hh11) HZL.out); have HB11 := Lib.hid (below_of_grownBy hg11); have HZ11 := Lib.hid hz11; clear hh11 hz11 hg11) | ((with_reducible show wpList _ _ _ (⟨none, .store 31 (.tmp 9) (.tmp 41), _, _, _, _⟩ :: _) _ _); refine wpList_store_all rfl 31 (.tmp 9) (.tmp 41) rfl w9.heap.size rfl #[.int .u8 ((0 : UInt8).toNat : Int), .slice none 0 0] rfl 31 _ (HA10.out.below HB11.out (by have := HZ10.out; omega)).row (by rw [size31]; rfl) rfl (by intro u hu; simp at hu; rcases hu with rfl | rfl <;> rfl) ?_; intro w12 hh12 hg12 hz12; have HR12 := Lib.hid (RAt.mk hh12); have HG12 := Lib.hid hg12; clear hh12 hz12 hg12) | ((with_reducible show wpList _ _ _ (⟨none, .store 23 (.tmp 11) (.tmp 43), _, _, _, _⟩ :: _) _ _); refine wpList_store_all rfl 23 (.tmp 11) (.tmp 43) rfl w10.heap.size rfl (bcs zz).toArray rfl 23 _ (HA11.out.grown HG12.out (fun r e => by injection e with e; have := HZ10.out; omega)).row (by rw [size23]; simp [bcs_len, HZL.out]) (by simp [bcs_len, HZL.out]) (by simpa using bcs_one _) ?_; intro w13 hh13 hg13 hz13; have HD13 := Lib.hid (DAt.mk hh13 HZL.out); have HG13 := Lib.hid hg13; clear hh13 hz13 hg13; have P13 := Lib.hid (pack4 HB10.out HZ10.out HB11.out HR12.out HG12.out HD13.out HG13.out); have D13 := Lib.hid (D9.out.below P13.out.1 D9.out.lt)) | ((with_reducible show wpList _ _ _ (⟨_, .load 23 (.tmp 1), _, _, _, _⟩ :: _) _ _); refine wpList_exec rfl _ (exec_dig rfl rfl D13.out) ?_))
  have B13 := Lib.hid (B9.out.trans (P13.out.1.mono B9.out.size))
  have E13 := Lib.hid (E9.out.below P13.out.1 E9.out.lt)
  have S13 := Lib.hid (S9.out.below P13.out.1 (S' := (· < w13.heap.size)) (fun b hb => Nat.lt_of_lt_of_le hb P13.out.1.size))
  have R13 := Lib.hid (R9.out.below P13.out.1 R9.out.lt)
  have F13 := Lib.hid (F9.out.below P13.out.1 F9.out.lt)
  have T13 := Lib.hid (T9.out.below P13.out.1 (S' := (· < w13.heap.size)) (fun b hb => Nat.lt_of_lt_of_le hb P13.out.1.size))
  clear B9 E9 S9 R9 F9 T9 D9 HA10 HB10 HZ10 HA11 HB11 HZ11 HR12 HG12 HD13 HG13 P13
  generalize w9.heap.size = g9 at *
  generalize w10.heap.size = g11 at *
  refine (bytes_any w13 (fun _ => False) c3 HL3.out 0 none 0 0 [] (Src.nil_ _ _ _) (fun b hb => hb.elim) ⟨Nat.le_refl _, by simp [maxLen]⟩ (by omega)).mono ?_
  rintro e14 w14 ⟨-, h14, hb14⟩
  replace h14 := h14 (by decide)
  rw [HZZ.out] at h14
  subst h14
  have B14 := Lib.hid (B13.out.trans (hb14.mono B13.out.size))
  have E14 := Lib.hid (E13.out.below hb14 E13.out.lt)
  have S14 := Lib.hid (S13.out.below hb14 (S' := (· < w14.heap.size)) (fun b hb => Nat.lt_of_lt_of_le hb hb14.size))
  have R14 := Lib.hid (R13.out.below hb14 R13.out.lt)
  have F14 := Lib.hid (F13.out.below hb14 F13.out.lt)
  have T14 := Lib.hid (T13.out.below hb14 (S' := (· < w14.heap.size)) (fun b hb => Nat.lt_of_lt_of_le hb hb14.size))
  clear B13 E13 S13 R13 F13 T13 D13 hb14
  go_wp2_with (first | ((with_reducible show wpList _ _ _ (⟨some 14, .alloc 23, _, _, _, _⟩ :: _) _ _); refine wpList_alloc_row rfl 23 rfl (.agg (zbs 32)) zero23 ?_; intro w15 hh15 hz15 hg15; have HA15 := Lib.hid (DAt.mk (ch := zz) (by rw [← HZZ.out]; exact hh15) HZL.out); have HB15 := Lib.hid (below_of_grownBy hg15); have HZ15 := Lib.hid hz15; clear hh15 hz15 hg15) | ((with_reducible show wpList _ _ _ (⟨none, .store 23 (.tmp 14) (.tmp 50), _, _, _, _⟩ :: _) _ _); refine wpList_store_all rfl 23 (.tmp 14) (.tmp 50) rfl w14.heap.size rfl (bcs zz).toArray rfl 23 _ HA15.out.row (by rw [size23]; simp [bcs_len, HZL.out]) (by simp [bcs_len, HZL.out]) (by simpa using bcs_one _) ?_; intro w16 hh16 hg16 hz16; have HD16 := Lib.hid (DAt.mk hh16 HZL.out); have HG16 := Lib.hid hg16; clear hh16 hz16 hg16))
  have P16 := Lib.hid (pack2 HB15.out HD16.out HG16.out)
  have B16 := Lib.hid (B14.out.trans (P16.out.1.mono B14.out.size))
  have E16 := Lib.hid (E14.out.below P16.out.1 E14.out.lt)
  have S16 := Lib.hid (S14.out.below P16.out.1 (S' := (· < w16.heap.size)) (fun b hb => Nat.lt_of_lt_of_le hb P16.out.1.size))
  have R16 := Lib.hid (R14.out.below P16.out.1 R14.out.lt)
  have F16 := Lib.hid (F14.out.below P16.out.1 F14.out.lt)
  have T16 := Lib.hid (T14.out.below P16.out.1 (S' := (· < w16.heap.size)) (fun b hb => Nat.lt_of_lt_of_le hb P16.out.1.size))
  clear B14 E14 S14 R14 F14 T14 HA15 HB15 HZ15 HD16 HG16 P16
  generalize w14.heap.size = g14 at *
  refine (lives_any w16).mono ?_
  rintro e17 w17 ⟨rfl, hb17⟩
  rename_i K hK
  simp only [List.append_eq, List.cons_append, List.nil_append] at hK
  have B17 := Lib.hid (B16.out.trans (hb17.mono B16.out.size))
  have E17 := Lib.hid (E16.out.below hb17 E16.out.lt)
  have R17 := Lib.hid (R16.out.below hb17 R16.out.lt)
  have F17 := Lib.hid (F16.out.below hb17 F16.out.lt)
  have T17 := Lib.hid (T16.out.below hb17 (S' := (· < w17.heap.size)) (fun b hb => Nat.lt_of_lt_of_le hb hb17.size))
  obtain ⟨b4, o4, rfl, hbl, hcell⟩ := S16.out.lies (by have := HLL.out; omega)
  have c0 : w17.cell? ⟨b4, o4, none⟩ = some (.int .u8 9) := by
    have h1 := hcell 0 (by have := HLL.out; omega)
    rw [HRB.out] at h1
    exact (hb17.cell (p := ⟨b4, o4, none⟩) hbl).trans h1
  have c1 : w17.cell? ⟨b4, o4 + 1, none⟩ = some (.int .u8 2) := by
    have h1 := hcell 1 (by have := HLL.out; omega)
    rw [HRB.out] at h1
    exact (hb17.cell (p := ⟨b4, o4 + 1, none⟩) hbl).trans h1
  clear B16 E16 S16 R16 F16 T16 hb17 hcell hbl
  have heq := fun W => eq23 _ _ HNL.out HNL.out W
  rw [decide_eq_true rfl] at heq
  have hbb := build31 (w17.alloc (.cells #[.int .u8 120, .int .u8 121] 5 (2, 3))) 9 (some ⟨w17.heap.size, 0, none⟩) 2 2
  have hll := HLL.out
  go_wp2_with (first | ((show wpList _ _ _ (⟨_, .load 23 (.tmp 7), _, _, _, _⟩ :: _) _ _); refine wpList_exec rfl _ (exec_dig rfl rfl F17.out) ?_) | ((show wpList _ _ _ (⟨_, .load 23 (.tmp 3), _, _, _, _⟩ :: _) _ _); refine wpList_exec rfl _ (exec_dig rfl rfl E17.out) ?_) | ((show wpList _ _ _ (⟨_, .load 31 (.tmp 5), _, _, _, _⟩ :: _) _ _); refine wpList_exec rfl _ (exec_rec rfl rfl R17.out) ?_))
  have hW := below_alloc w17 (.cells #[.int .u8 120, .int .u8 121] 5 (2, 3))
  refine (record_any _ (· < w17.heap.size) (· < w17.heap.size + 1) 9 9 A7 _ 2 c7 2 2 [120, 121] [120, 121] (T17.out.below' hW (fun b hb => hb)) (Src.lit w17 _ (2, 3) [120, 121] rfl (by simp)) (fun b hb => Nat.lt_of_lt_of_le hb hW.size) (fun b hb => by simpa using hb)).mono ?_
  rintro e18 w18 ⟨rfl, hb18⟩
  have B18 := Lib.hid (B17.out.trans ((hW.mono B17.out.size).trans (hb18.mono (by have := B17.out.size; simp; omega))))
  have R18 := Lib.hid ((R17.out.below hW R17.out.lt).below hb18 (by have := R17.out.lt; simp; omega))
  have T18 := Lib.hid ((T17.out.below' hW (fun b hb => hb)).below' hb18 (fun b hb => by simp; omega))
  have SZ18 := Lib.hid (show w17.heap.size ≤ w18.heap.size from Nat.le_trans hW.size hb18.size)
  clear hW hb18 B17 E17 R17 F17 T17 heq hbb c0 c1 hcv
  rw [show ((9 : UInt8) == 9 && ([120, 121] : List UInt8) == [120, 121]) = true from by decide]
  have hbb := fun W => build31 W 1 (some ⟨w18.heap.size, 0, none⟩) 8193 8193
  rename_i K2 hK2
  go_wp2_with (at_make; refine wpList_makeB rfl _ _ rfl .i64 .i64 8193 8193 rfl rfl (by omega) (by omega) ?_; intro w19 hh19 hz19 hg19; have B19 := Lib.hid (B18.out.trans ((below_of_grownBy hg19).mono B18.out.size)); have R19 := Lib.hid (R18.out.below (below_of_grownBy hg19) R18.out.lt); have T19 := Lib.hid (T18.out.below' (below_of_grownBy hg19) (fun b hb => Nat.lt_of_lt_of_le hb SZ18.out)); have SZ19 := Lib.hid (Nat.le_trans SZ18.out (below_of_grownBy hg19).size); clear hh19 hz19 hg19)
  clear B18 R18 T18 SZ18 hbb
  refine (check_any w19 1 _ 8193 8193 (by omega)).mono ?_
  rintro e20 w20 ⟨rfl, hb20⟩
  have B20 := Lib.hid (B19.out.trans (hb20.mono B19.out.size))
  have R20 := Lib.hid (R19.out.below hb20 R19.out.lt)
  have T20 := Lib.hid (T19.out.below' hb20 (fun b hb => Nat.lt_of_lt_of_le hb SZ19.out))
  have SZ20 := Lib.hid (Nat.le_trans SZ19.out hb20.size)
  clear hb20 B19 R19 T19 SZ19
  rw [if_neg (show ¬ okR 1 8193 = true by decide)]
  go_wp2_with fail
  refine (size_any w20 0 none 0 0 (by omega)).mono ?_
  rintro e21 w21 ⟨rfl, hb21⟩
  have B21 := Lib.hid (B20.out.trans (hb21.mono B20.out.size))
  have R21 := Lib.hid (R20.out.below hb21 R20.out.lt)
  have T21 := Lib.hid (T20.out.below' hb21 (fun b hb => Nat.lt_of_lt_of_le hb SZ20.out))
  have SZ21 := Lib.hid (Nat.le_trans SZ20.out hb21.size)
  clear hb21 B20 R20 T20 SZ20
  rw [show ((if okR 0 0 = true then sizeR 0 else 0 : Nat) : Int) = 0 from by decide]
  go_wp2_with (first | ((with_reducible show wpList _ _ _ (⟨_, .load 31 (.tmp 5), _, _, _, _⟩ :: _) _ _); refine wpList_exec rfl _ (exec_rec rfl rfl R21.out) ?_))
  refine (same_any w21 (· < w17.heap.size) (· < w17.heap.size) 9 9 A7 A7 2 c7 2 c7 [120, 121] [120, 121] T21.out T21.out (fun b hb => Nat.lt_of_lt_of_le hb SZ21.out) (fun b hb => Nat.lt_of_lt_of_le hb SZ21.out) rfl).mono ?_
  rintro e22 w22 ⟨rfl, hb22⟩
  rw [show (([120, 121] : List UInt8) == [120, 121]) = true from by decide]
  go_wp2
  go_ret
  exact ⟨rfl, B21.out.trans (hb22.mono B21.out.size)⟩
end Go.Proofs.Ytkglicidjdifkaa
