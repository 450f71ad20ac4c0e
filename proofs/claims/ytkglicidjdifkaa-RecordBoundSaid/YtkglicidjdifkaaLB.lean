/- RecordBound: its walk. No condition. -/
import Derived.Test.YtkglicidjdifkaaRM
namespace Go.Proofs.Ytkglicidjdifkaa
open Go.RowKit
set_option linter.unusedVariables false
set_option linter.unusedSimpArgs false
/-- The law's arguments in rows of its own. -/
structure Bd (w0 w : World) (g5 g6 g7 : Nat) (k : UInt8) (A : Option Addr) (n c : Nat) (l ch dh : List UInt8) : Prop where
  R : RAt w g5 k A n c
  C : DAt w g6 ch
  D : DAt w g7 dh
  B : Below w0.heap.size w0 w
  S : Src w (· < w0.heap.size) A n (bcs l)
section
variable {w0 w w' : World} {g5 g6 g7 : Nat} {k : UInt8} {A : Option Addr} {n c : Nat} {l ch dh : List UInt8}
theorem Bd.below (h : Bd w0 w g5 g6 g7 k A n c l ch dh) (hb : Below w.heap.size w w') : Bd w0 w' g5 g6 g7 k A n c l ch dh :=
  ⟨h.R.below hb h.R.lt, h.C.below hb h.C.lt, h.D.below hb h.D.lt, h.B.trans (hb.mono h.B.size), h.S.below' hb (fun b hb' => Nat.lt_of_lt_of_le hb' h.B.size)⟩
theorem Bd.stored (h : Bd w0 w g5 g6 g7 k A n c l ch dh) {g : Nat} (hg : w.grownBy w' (some g)) (hn : w0.heap.size ≤ g ∧ g ≠ g6 ∧ g ≠ g7 ∧ g ≠ g5) : Bd w0 w' g5 g6 g7 k A n c l ch dh :=
  ⟨h.R.grown hg (fun r e => by cases e; exact hn.2.2.2), h.C.grown hg (fun r e => by cases e; exact hn.2.1), h.D.grown hg (fun r e => by cases e; exact hn.2.2.1), h.B.grown hg h.B.size (fun r e => by cases e; exact hn.1), h.S.grown hg (fun b hb => ⟨Nat.lt_of_lt_of_le hb h.B.size, fun e => by injection e with e; have := hn.1; omega⟩) (fun b hb => hb)⟩
theorem Bd.sl (h : Bd w0 w g5 g6 g7 k A n c l ch dh) : ∀ b, b < w0.heap.size → b < w.heap.size := fun b hb => Nat.lt_of_lt_of_le hb h.B.size
end
theorem OwnB.s {w : World} {B : Nat} {A : Option Addr} {m c : Nat} {l : List UInt8} (h : OwnB w B (.slice A m c) l) : m = l.length ∧ m ≤ c ∧ c ≤ maxLen ∧ Src w (fun g => B ≤ g ∧ g < w.heap.size) A m (bcs l) := by
  obtain ⟨A2, c2, e, h1, h2, h3⟩ := h.src
  injection e with e1 e2 e3
  subst e1; subst e2; subst e3
  exact ⟨rfl, h1, h2, h3⟩
theorem set_take {l : List UInt8} {j : Nat} {x : UInt8} (hj : j < l.length) (h : l.set j x = l) : x = l.getD j 0 := by
  have h1 : (l.set j x)[j]? = some x := by rw [List.getElem?_set]; simp [hj]
  rw [h] at h1
  rw [List.getD_eq_getElem?_getD, h1]
  rfl
theorem xor_self {a y : UInt8} (h : a ^^^ y = a) : y = 0 := by
  have h2 : a ^^^ (a ^^^ y) = a ^^^ a := by rw [h]
  rw [← UInt8.xor_assoc, UInt8.xor_self, UInt8.zero_xor] at h2
  exact h2
theorem setCell_row5 {w : World} {g : Nat} {cur : Array Value} (hg : w.heap[g]? = some (.cells cur 5 (0, 0))) (j : Nat) (v : Value) : (w.setCell ⟨g, j, none⟩ v).heap[g]? = some (.cells (cur.setIfInBounds j v) 5 (0, 0)) := by
  have hlt := (Array.getElem?_eq_some_iff.1 hg).1
  have h' : w.heap[g] = .cells cur 5 (0, 0) := by simpa [Array.getElem?_eq_getElem hlt] using hg
  show (w.heap.modify g _)[g]? = _
  rw [Array.getElem?_eq_getElem (by simpa using hlt), Array.getElem_modify_self, h']
  rfl
theorem setCell_grown (w : World) (g j : Nat) (v : Value) : w.grownBy (w.setCell ⟨g, j, none⟩ v) (some g) :=
  ⟨rfl, rfl, rfl, by unfold World.setCell; simp, fun k _ hk => Below.heap_setCell w ⟨g, j, none⟩ v k (fun e => hk (by rw [e]))⟩
theorem DAt.src8 {w : World} {g : Nat} {ch : List UInt8} (h : DAt w g ch) : Src w (fun b => b = g) (some ⟨g, 0, none⟩) 8 (bcs (ch.take 8)) := by
  have e1 := h.src.take_ 8 (by omega)
  rw [← bcs_takeD] at e1
  exact e1
theorem own_row {w : World} {B m : Nat} {v : Value} {l : List UInt8} (h : w.ownsRow B 5 1 v m (bcs l)) (hm : 0 < m) : ∃ g cap cur, v = .slice (some ⟨g, 0, none⟩) m cap ∧ B ≤ g ∧ w.heap[g]? = some (.cells cur 5 (0, 0)) ∧ m ≤ cap ∧ cap ≤ maxLen ∧ cur.size = cap ∧ cur.toList.take m = bcs l := by
  rcases h.2 with ⟨rfl, h0⟩ | ⟨g, cap, cur, rfl, hb, hg, hnc, hcm, hcs, ht⟩
  · omega
  · exact ⟨g, cap, cur, rfl, hb, hg, hnc, hcm, by omega, by simpa using ht⟩
theorem row_src {w : World} {g m : Nat} {cur : Array Value} {l : List UInt8} (hg : w.heap[g]? = some (.cells cur 5 (0, 0))) (hm : m ≤ cur.size) (ht : cur.toList.take m = bcs l) : Src w (· < w.heap.size) (some ⟨g, 0, none⟩) m (bcs l) := by
  refine ⟨by rw [← ht]; simp; omega, fun _ => ⟨g, 0, rfl, (Array.getElem?_eq_some_iff.1 hg).1, fun i hi => ?_⟩⟩
  rw [Nat.zero_add, cell_of_row w g i _ _ _ hg, ← ht, List.getElem?_take, if_pos hi]
  simp
theorem set_row {cur : Array Value} {m j : Nat} {l : List UInt8} (x : UInt8) (hj : j < m) (ht : cur.toList.take m = bcs l) : (cur.setIfInBounds j (.int .u8 (x.toNat : Int))).toList.take m = bcs (l.set j x) := by
  rw [Array.toList_setIfInBounds, List.take_set, ht]
  unfold bcs
  rw [List.map_set]
  rfl
theorem exec_sh {a : Act} {w : World} {o : Oper} {x z : Operand} (ho : o.op = .slice 26 x none (some z) none) {A : Option Addr} {n c h : Nat} (hx : a.eval x = .slice A n c) (hz : a.eval z = .int .i64 (h : Int)) (h2 : h ≤ c) :
    (execOp a.eval o).run Try.prog w = .ok (.value (.slice A h c)) w := by
  have e1 := run_slice_h (P := Try.prog) (t := 26) w A n c u26 .i64 (h : Int) (by omega) (by omega)
  rw [el26, sz5] at e1
  unfold execOp
  simp only [ho, Option.map_some, Option.map_none, Sem.run_bind, hx, hz, run_sliceAt_slice _ _ _ _ _ _ u26, e1, Result.andThen_ok, Sem.run_pure]
  simp only [sliced, Int.toNat_natCast, Nat.zero_mul]
  congr 3
  split
  · rfl
  · cases A with
    | none => rfl
    | some a => rfl
set_option maxRecDepth 100000 in
set_option maxHeartbeats 4000000 in
theorem bound_core (w : World) (k : UInt8) (A : Option Addr) (n c : Nat) (l ch dh : List UInt8) (at_ : Int) (y : UInt8) (hs : Src w (· < w.heap.size) A n (bcs l)) (hc : n ≤ c ∧ c ≤ maxLen) (hch : ch.length = 32) (hdh : dh.length = 32)
    (hat : -9223372036854775808 ≤ at_ ∧ at_ ≤ 9223372036854775807) :
    Calls Try.prog 5 #[vR k A n c, .agg (bcs ch).toArray, .agg (bcs dh).toArray, .int .i64 at_, .int .u8 (y.toNat : Int)] w (Gives (.bool true) w) := by
  have hln := src_len hs
  subst hln
  have HS := Lib.hid hs
  have HCL := Lib.hid hch
  have HDL := Lib.hid hdh
  have HC := Lib.hid hc
  clear hs hc
  unfold vR
  go_enter Try.func5, Try.ntmps5
  go_wp2_with (first | ((with_reducible show wpList _ _ _ (⟨some 5, .box 31 _, _, _, _, _⟩ :: _) _ _); refine wpList_box_row rfl 31 _ rfl _ rfl ?_; intro w1 hh1 hz1 hg1; have HR1 := Lib.hid (RAt.mk hh1); have HB1 := Lib.hid (below_of_grownBy hg1); clear hh1 hz1 hg1) | ((with_reducible show wpList _ _ _ (⟨some 6, .box 23 _, _, _, _, _⟩ :: _) _ _); refine wpList_box_row rfl 23 _ rfl _ rfl ?_; intro w2 hh2 hz2 hg2; have HC2 := Lib.hid (DAt.mk hh2 HCL.out); have HB2 := Lib.hid (below_of_grownBy hg2); clear hh2 hz2 hg2) | ((with_reducible show wpList _ _ _ (⟨some 7, .box 23 _, _, _, _, _⟩ :: _) _ _); refine wpList_box_row rfl 23 _ rfl _ rfl ?_; intro w3 hh3 hz3 hg3; have HD3 := Lib.hid (DAt.mk hh3 HDL.out); have HB3 := Lib.hid (below_of_grownBy hg3); clear hh3 hz3 hg3))
  have HB13 := Lib.hid ((HB1.out.trans (HB2.out.mono HB1.out.size)).trans (HB3.out.mono (Nat.le_trans HB1.out.size HB2.out.size)))
  have H3 : Hid (Bd w w3 w.heap.size w1.heap.size w2.heap.size k A l.length c l ch dh) := Lib.hid ⟨(HR1.out.below HB2.out HR1.out.lt).below HB3.out (Nat.lt_of_lt_of_le HR1.out.lt HB2.out.size), HC2.out.below HB3.out HC2.out.lt, HD3.out, HB13.out, HS.out.below' HB13.out (fun b hb => hb)⟩
  clear HR1 HB1 HC2 HB2 HD3 HB3 HB13
  generalize w1.heap.size = g6 at *
  generalize w2.heap.size = g7 at *
  refine (lives_any w3).mono ?_
  rintro e4 w4 ⟨rfl, hb4⟩
  have H4 := Lib.hid (H3.out.below hb4)
  clear hb4 H3
  have c1 := H4.out.R.c1
  by_cases hbig : 9000 < l.length
  · have hbi : decide ((9000 : Int) < (l.length : Int)) = true := by simp; omega
    go_wp2
    go_ret
    exact ⟨rfl, H4.out.B⟩
  have hbi : decide ((9000 : Int) < (l.length : Int)) = false := by simp; omega
  have CK := Lib.hid (fun W => check_any W k A l.length c (by omega))
  unfold vR at CK
  go_wp2_with (first | ((with_reducible show wpList _ _ _ (⟨_, .load 31 (.tmp 5), _, _, _, _⟩ :: _) _ _); refine wpList_exec rfl _ (exec_rec rfl rfl H4.out.R) ?_))
  refine (CK.out w4).mono ?_
  clear CK c1
  cases hok : okR k l.length
  · rintro e5 w5 ⟨rfl, hb5⟩
    have H5 := Lib.hid (H4.out.below hb5)
    clear hb5 hok
    rw [if_neg (by simp)]
    go_wp2
    go_ret
    exact ⟨rfl, H5.out.B⟩
  rintro e5 w5 ⟨rfl, hb5⟩
  have H5 := Lib.hid (H4.out.below hb5)
  clear hb5 H4
  rw [if_pos rfl]
  have HOK := Lib.hid hok
  have CB := Lib.hid (fun (W : World) (h : Src W (· < w.heap.size) A l.length (bcs l)) (h2 : ∀ b, b < w.heap.size → b < W.heap.size) => bytes_any W _ ch hch k A l.length c l h h2 HC.out (by omega))
  unfold vR at CB
  go_wp2_with (first | ((with_reducible show wpList _ _ _ (⟨_, .load 31 (.tmp 5), _, _, _, _⟩ :: _) _ _); refine wpList_exec rfl _ (exec_rec rfl rfl H5.out.R) ?_) | ((with_reducible show wpList _ _ _ (⟨_, .load 23 (.tmp 6), _, _, _, _⟩ :: _) _ _); refine wpList_exec rfl _ (exec_dig rfl rfl H5.out.C) ?_))
  refine (CB.out w5 H5.out.S H5.out.sl).mono ?_
  rintro e6 w6 ⟨h6, -, hb6⟩
  obtain ⟨v6, rfl, ho6⟩ := h6 hok
  clear h6 CB hok
  have HNL := Lib.hid (nextL_len ch k l)
  have HND := Lib.hid (nextL_len dh k l)
  have hRL := recB_len ch k l
  have HRR := Lib.hid (read_rec ch ch k l [] HOK.out)
  have HRD := Lib.hid (read_rec ch dh k l [] HOK.out)
  have hszn : sizeR l.length ≤ 9100 := by have := sz_le l.length; unfold sizeR; omega
  have hszn9 : 9 ≤ sizeR l.length := by unfold sizeR; omega
  have HPRE : Hid (∀ (q : Nat) (T : List UInt8) (x : UInt8), T = (recB ch k l).set q x → q < (recB ch k l).length → readE ch T = 0 → readK T = k → readD T = l → x = (recB ch k l).getD q 0) := Lib.hid fun q T x hT hq h0 h1 h2 => by
    have h3 := readE_ok h0
    rw [h1, h2] at h3
    have h4 : T.length = (recB ch k l).length := by rw [hT]; simp
    rw [List.take_of_length_le (by rw [h4, recB_len]; exact Nat.le_refl _)] at h3
    rw [hT] at h3
    exact set_take hq h3.2.1
  rw [List.append_nil] at HRR HRD
  obtain ⟨A6, c6, rfl, hl6, hm6, hs6⟩ := ho6.src
  have H6 := Lib.hid (H5.out.below hb6)
  generalize hL : recB ch k l = L at *
  have HRL := Lib.hid hRL
  have hLb : L.length ≤ 9100 := by omega
  have hLb9 : 9 ≤ L.length := by omega
  have HS6 := Lib.hid (hs6.weak (S' := (· < w6.heap.size)) (fun b hb => hb.2))
  have HM6 := Lib.hid (And.intro hl6 hm6)
  have HRE0 : Hid (readE ch L = 0) := by have := HRR.out.2.2; rw [if_pos rfl] at this; exact this
  have HRK := Lib.hid HRR.out.1
  have HRDD := Lib.hid HRR.out.2.1
  have HRED := Lib.hid HRD.out.2.2
  clear hs6 hl6 hm6 ho6 hb6 H5 hL hRL hszn hszn9 HRR HRD
  go_wp2_with (first | ((with_reducible show wpList _ _ _ (⟨some 12, .alloc 23, _, _, _, _⟩ :: _) _ _); refine wpList_alloc_row rfl 23 rfl (.agg (zbs 32)) zero23 ?_; intro w7 hh7 hz7 hg7; have HA7 := Lib.hid (DAt.mk (ch := List.replicate 32 0) hh7 (by simp)); have HB7 := Lib.hid (below_of_grownBy hg7); have HZ7 := Lib.hid hz7; clear hh7 hz7 hg7) | ((with_reducible show wpList _ _ _ (⟨none, .store 23 (.tmp 12) (.tmp 47), _, _, _, _⟩ :: _) _ _); refine wpList_store_all rfl 23 (.tmp 12) (.tmp 47) rfl w6.heap.size rfl (bcs (nextL ch k l)).toArray rfl 23 _ HA7.out.row (by rw [size23]; simp [bcs_len, HNL.out]) (by simp [bcs_len, HNL.out]) (by simpa using bcs_one _) ?_; intro w8 hh8 hg8 hz8; have HD8 := Lib.hid (DAt.mk hh8 HNL.out); have HG8 := Lib.hid hg8; clear hh8 hz8 hg8; have P8 := Lib.hid (pack2 HB7.out HD8.out HG8.out); have H8 := Lib.hid (H6.out.below P8.out.1); have HS8 := Lib.hid (HS6.out.below P8.out.1 (fun b hb => Nat.lt_of_lt_of_le hb P8.out.1.size)); have N8 := Lib.hid P8.out.2; clear HA7 HB7 HZ7 HD8 HG8 P8) | ((with_reducible show wpList _ _ _ (⟨_, .load 23 (.tmp 6), _, _, _, _⟩ :: _) _ _); refine wpList_exec rfl _ (exec_dig rfl rfl H8.out.C) ?_))
  clear H6 HS6
  generalize w6.heap.size = g12 at *
  refine (read_some w8 (· < w8.heap.size) ch hch A6 L.length c6 L HS8.out (fun b hb => hb) HM6.out (by omega)).mono ?_
  rintro e9 w9 ⟨k9, A9, d9, ch9, c9, sz9, rfl, hl9, hs9, h9a, h9b, hb9, hd9, hz9⟩
  obtain ⟨hk9, hd9', hsz9, hch9⟩ := hz9 HRE0.out
  rw [HRK.out] at hk9
  rw [HRDD.out] at hd9'
  subst hk9
  subst hd9'
  subst hch9
  subst hsz9
  have H9 := Lib.hid (H8.out.below hb9)
  have HS9 := Lib.hid (HS8.out.below' hb9 (fun b hb => hb))
  have N9 := Lib.hid (N8.out.below hb9 N8.out.lt)
  have HD9 := Lib.hid (hs9.weak (S' := (· < w9.heap.size)) (fun b hb => hb.2))
  have HM9 := Lib.hid (And.intro h9a h9b)
  rw [HRE0.out, ← HRL.out]
  have hmm : w8.heap.size ≤ w9.heap.size := hb9.size
  clear hl9 hs9 h9a h9b hb9 hd9 hz9 H8 N8
  unfold vR
  go_wp2_with (first | ((with_reducible show wpList _ _ _ (⟨some 14, .alloc 31, _, _, _, _⟩ :: _) _ _); refine wpList_alloc_row rfl 31 rfl zR zero31 ?_; intro w10 hh10 hz10 hg10; have HA10 := Lib.hid (RAt.mk (k := 0) (A := none) (n := 0) (c := 0) hh10); have HB10 := Lib.hid (below_of_grownBy hg10); have HZ10 := Lib.hid hz10; clear hh10 hz10 hg10) | ((with_reducible show wpList _ _ _ (⟨some 16, .alloc 23, _, _, _, _⟩ :: _) _ _); refine wpList_alloc_row rfl 23 rfl (.agg (zbs 32)) zero23 ?_; intro w11 hh11 hz11 hg11; have HA11 := Lib.hid (DAt.mk (ch := List.replicate 32 0) hh11 (by simp)); have HB11 := Lib.hid (below_of_grownBy hg11); have HZ11 := Lib.hid hz11; clear hh11 hz11 hg11) | ((with_reducible show wpList _ _ _ (⟨none, .store 31 (.tmp 14) (.tmp 53), _, _, _, _⟩ :: _) _ _); refine wpList_store_all rfl 31 (.tmp 14) (.tmp 53) rfl w9.heap.size rfl #[.int .u8 (k9.toNat : Int), .slice A9 d9.length c9] rfl 31 _ (HA10.out.below HB11.out (by have := HZ10.out; omega)).row (by rw [size31]; rfl) rfl (by intro u hu; simp at hu; rcases hu with rfl | rfl <;> rfl) ?_; intro w12 hh12 hg12 hz12; have HR12 := Lib.hid (RAt.mk hh12); have HG12 := Lib.hid hg12; clear hh12 hz12 hg12) | ((with_reducible show wpList _ _ _ (⟨none, .store 23 (.tmp 16) (.tmp 55), _, _, _, _⟩ :: _) _ _); refine wpList_store_all rfl 23 (.tmp 16) (.tmp 55) rfl w10.heap.size rfl (bcs (nextL ch k9 d9)).toArray rfl 23 _ (HA11.out.grown HG12.out (fun r e => by injection e with e; have := HZ10.out; omega)).row (by rw [size23]; simp [bcs_len, HNL.out]) (by simp [bcs_len, HNL.out]) (by simpa using bcs_one _) ?_; intro w13 hh13 hg13 hz13; have HD13 := Lib.hid (DAt.mk hh13 HNL.out); have HG13 := Lib.hid hg13; clear hh13 hz13 hg13; have P13 := Lib.hid (pack4 HB10.out HZ10.out HB11.out HR12.out HG12.out HD13.out HG13.out); have H13 := Lib.hid (H9.out.below P13.out.1); have HS13 := Lib.hid (HS9.out.below' P13.out.1 (fun b hb => Nat.lt_of_lt_of_le hb hmm)); have N13 := Lib.hid (N9.out.below P13.out.1 N9.out.lt); have SR13 := Lib.hid (HD9.out.below P13.out.1 (fun b hb => Nat.lt_of_lt_of_le hb P13.out.1.size)); clear HA10 HB10 HA11 HB11 HR12 HG12 HD13 HG13 HZ10 HZ11) | ((with_reducible show wpList _ _ _ (⟨_, .load 31 (.tmp 14), _, _, _, _⟩ :: _) _ _); refine wpList_exec rfl _ (exec_rec rfl rfl P13.out.2.1) ?_) | ((with_reducible show wpList _ _ _ (⟨_, .load 31 (.tmp 5), _, _, _, _⟩ :: _) _ _); refine wpList_exec rfl _ (exec_rec rfl rfl H13.out.R) ?_))
  have R13 := Lib.hid P13.out.2.1
  have D13 := Lib.hid P13.out.2.2
  clear P13 H9 HS9 N9 HD9
  generalize w9.heap.size = g14 at *
  generalize w10.heap.size = g16 at *
  refine (record_any w13 _ _ k9 k9 A9 A d9.length c9 d9.length c d9 d9 SR13.out H13.out.S (fun b hb => hb) H13.out.sl).mono ?_
  rintro e14 w14 ⟨rfl, hb14⟩
  have H14 := Lib.hid (H13.out.below hb14)
  have HS14 := Lib.hid (HS13.out.below' hb14 (fun b hb => Nat.lt_of_lt_of_le (Nat.lt_of_lt_of_le hb hmm) (by have := R13.out.lt; omega)))
  have N14 := Lib.hid (N13.out.below hb14 N13.out.lt)
  have D14 := Lib.hid (D13.out.below hb14 D13.out.lt)
  have R14 := Lib.hid (R13.out.below hb14 R13.out.lt)
  have SZ14 := Lib.hid (show w13.heap.size ≤ w14.heap.size from hb14.size)
  clear hb14 H13 HS13 N13 SR13 R13 D13
  rw [show ((k9 == k9) && (d9 == d9)) = true from by simp]
  have heq := fun W => eq23 _ _ HNL.out HNL.out W
  rw [decide_eq_true rfl] at heq
  go_wp2_with (first | ((with_reducible show wpList _ _ _ (⟨_, .load 23 (.tmp 16), _, _, _, _⟩ :: _) _ _); refine wpList_exec rfl _ (exec_dig rfl rfl D14.out) ?_) | ((with_reducible show wpList _ _ _ (⟨_, .load 23 (.tmp 12), _, _, _, _⟩ :: _) _ _); refine wpList_exec rfl _ (exec_dig rfl rfl N14.out) ?_) | ((with_reducible show wpList _ _ _ (⟨_, .load 23 (.tmp 7), _, _, _, _⟩ :: _) _ _); refine wpList_exec rfl _ (exec_dig rfl rfl H14.out.D) ?_) | ((with_reducible show wpList _ _ _ (⟨_, .load 31 (.tmp 5), _, _, _, _⟩ :: _) _ _); refine wpList_exec rfl _ (exec_rec rfl rfl H14.out.R) ?_))
  have HS14 := Lib.hid (HS14.out.weak (S' := (· < w14.heap.size)) (fun b hb => Nat.lt_of_lt_of_le hb (Nat.le_trans hmm (Nat.le_of_lt R14.out.lt))))
  clear hmm heq SZ14 HS8
  refine (next_any w14 (· < w.heap.size) dh hdh k9 A d9.length c d9 H14.out.S H14.out.sl HC.out (by omega)).mono ?_
  rintro e15 w15 ⟨rfl, hb15⟩
  have H15 := Lib.hid (H14.out.below hb15)
  have HS15 := Lib.hid (HS14.out.below hb15 (S' := (· < w15.heap.size)) (fun b hb => Nat.lt_of_lt_of_le hb hb15.size))
  have N15 := Lib.hid (N14.out.below hb15 N14.out.lt)
  clear hb15 H14 HS14 N14 D14 R14
  go_wp2_with (first | ((with_reducible show wpList _ _ _ (⟨some 18, .alloc 23, _, _, _, _⟩ :: _) _ _); refine wpList_alloc_row rfl 23 rfl (.agg (zbs 32)) zero23 ?_; intro w16 hh16 hz16 hg16; have HA16 := Lib.hid (DAt.mk (ch := List.replicate 32 0) hh16 (by simp)); have HB16 := Lib.hid (below_of_grownBy hg16); have HZ16 := Lib.hid hz16; clear hh16 hz16 hg16) | ((with_reducible show wpList _ _ _ (⟨none, .store 23 (.tmp 18) (.tmp 78), _, _, _, _⟩ :: _) _ _); refine wpList_store_all rfl 23 (.tmp 18) (.tmp 78) rfl w15.heap.size rfl (bcs (nextL dh k9 d9)).toArray rfl 23 _ HA16.out.row (by rw [size23]; simp [bcs_len, HND.out]) (by simp [bcs_len, HND.out]) (by simpa using bcs_one _) ?_; intro w17 hh17 hg17 hz17; have HD17 := Lib.hid (DAt.mk hh17 HND.out); have HG17 := Lib.hid hg17; clear hh17 hz17 hg17; have P17 := Lib.hid (pack2 HB16.out HD17.out HG17.out); have H17 := Lib.hid (H15.out.below P17.out.1); have HS17 := Lib.hid (HS15.out.below P17.out.1 (fun b hb => Nat.lt_of_lt_of_le hb P17.out.1.size)); have N17 := Lib.hid (N15.out.below P17.out.1 N15.out.lt); have O17 := Lib.hid P17.out.2; clear HA16 HB16 HZ16 HD17 HG17 P17) | ((with_reducible show wpList _ _ _ (⟨_, .load 23 (.tmp 7), _, _, _, _⟩ :: _) _ _); refine wpList_exec rfl _ (exec_dig rfl rfl H17.out.D) ?_))
  clear H15 HS15 N15
  generalize w15.heap.size = g18 at *
  refine (read_some w17 (· < w17.heap.size) dh hdh A6 L.length c6 L HS17.out (fun b hb => hb) HM6.out (by omega)).mono ?_
  rintro e18 w18 ⟨k18, A18, d18, ch18, c18, sz18, rfl, hl18, hs18, h18a, h18b, hb18, hd18, -⟩
  have HCH18 := Lib.hid hl18
  have H18 := Lib.hid (H17.out.below hb18)
  have HS18 := Lib.hid (HS17.out.below hb18 (S' := (· < w18.heap.size)) (fun b hb => Nat.lt_of_lt_of_le hb hb18.size))
  have N18 := Lib.hid (N17.out.below hb18 N17.out.lt)
  have O18 := Lib.hid (O17.out.below hb18 O17.out.lt)
  clear hl18 hs18 h18a h18b hb18 H17 HS17 N17 O17
  unfold vR
  go_wp2_with (first | ((with_reducible show wpList _ _ _ (⟨some 19, .alloc 31, _, _, _, _⟩ :: _) _ _); refine wpList_alloc_row rfl 31 rfl zR zero31 ?_; intro w19 hh19 hz19 hg19; have HA19 := Lib.hid (RAt.mk (k := 0) (A := none) (n := 0) (c := 0) hh19); have HB19 := Lib.hid (below_of_grownBy hg19); have HZ19 := Lib.hid hz19; clear hh19 hz19 hg19) | ((with_reducible show wpList _ _ _ (⟨some 21, .alloc 23, _, _, _, _⟩ :: _) _ _); refine wpList_alloc_row rfl 23 rfl (.agg (zbs 32)) zero23 ?_; intro w20 hh20 hz20 hg20; have HA20 := Lib.hid (DAt.mk (ch := List.replicate 32 0) hh20 (by simp)); have HB20 := Lib.hid (below_of_grownBy hg20); have HZ20 := Lib.hid hz20; clear hh20 hz20 hg20) | ((with_reducible show wpList _ _ _ (⟨none, .store 31 (.tmp 19) (.tmp 83), _, _, _, _⟩ :: _) _ _); refine wpList_store_all rfl 31 (.tmp 19) (.tmp 83) rfl w18.heap.size rfl #[.int .u8 (k18.toNat : Int), .slice A18 d18.length c18] rfl 31 _ (HA19.out.below HB20.out (by have := HZ19.out; omega)).row (by rw [size31]; rfl) rfl (by intro u hu; simp at hu; rcases hu with rfl | rfl <;> rfl) ?_; intro w21 hh21 hg21 hz21; have HR21 := Lib.hid (RAt.mk hh21); have HG21 := Lib.hid hg21; clear hh21 hz21 hg21) | ((with_reducible show wpList _ _ _ (⟨none, .store 23 (.tmp 21) (.tmp 85), _, _, _, _⟩ :: _) _ _); refine wpList_store_all rfl 23 (.tmp 21) (.tmp 85) rfl w19.heap.size rfl (bcs ch18).toArray rfl 23 _ (HA20.out.grown HG21.out (fun r e => by injection e with e; have := HZ19.out; omega)).row (by rw [size23]; simp [bcs_len, HCH18.out]) (by simp [bcs_len, HCH18.out]) (by simpa using bcs_one _) ?_; intro w22 hh22 hg22 hz22; have HD22 := Lib.hid (DAt.mk hh22 HCH18.out); have HG22 := Lib.hid hg22; clear hh22 hz22 hg22; have P22 := Lib.hid (pack4 HB19.out HZ19.out HB20.out HR21.out HG21.out HD22.out HG22.out); have H22 := Lib.hid (H18.out.below P22.out.1); have HS22 := Lib.hid (HS18.out.below P22.out.1 (S' := (· < w22.heap.size)) (fun b hb => Nat.lt_of_lt_of_le hb P22.out.1.size)); have N22 := Lib.hid (N18.out.below P22.out.1 N18.out.lt); have O22 := Lib.hid (O18.out.below P22.out.1 O18.out.lt); clear HA19 HB19 HA20 HB20 HR21 HG21 HD22 HG22 HZ19 HZ20 P22))
  clear H18 HS18 N18 O18
  generalize w18.heap.size = g19 at *
  generalize w19.heap.size = g21 at *
  by_cases hq : (nextL ch k9 d9).take 8 = (nextL dh k9 d9).take 8
  · rw [HRED.out, if_pos hq]
    have hq8 : ((nextL dh k9 d9).take 8 == (nextL ch k9 d9).take 8) = true := by simp [hq]
    clear HRED hq
    refine anyStart (fun _ => False) (by kernel_rfl) ?_
    refine anyTakeE (i := 0) (oi := { dst := some 87, op := Op.move (Operand.tmp 22), type := 27, pos := "law.go:112", after := #[], guard := none }) rfl (by kernel_rfl) (by kernel_rfl) (by kernel_rfl) (fun _ _ _ _ h => h) (by rfl) ?_
    apply Exists.intro
    refine ⟨fun w' hk => ?_, ?_⟩
    · go_simp <;> with_reducible rfl
    simp only [Act.put, List.setIfInBounds_toArray, List.set_cons_zero, List.set_cons_succ]
    refine anyTakeE (i := 1) (oi := { dst := some 88, op := Op.binOp BinOp.eql 27 (Operand.tmp 87) (Operand.const (Value.int IntKind.i64 0)) 27, type := 4, pos := "law.go:112", after := #[{ on := 0, ground := Ground.data }], guard := none }) rfl (by kernel_rfl) (by kernel_rfl) (by kernel_rfl) (fun _ _ _ _ h => h) (by rfl) ?_
    apply Exists.intro
    refine ⟨fun w' hk => ?_, ?_⟩
    · go_simp <;> with_reducible rfl
    simp only [Act.put, List.setIfInBounds_toArray, List.set_cons_zero, List.set_cons_succ]
    refine anyTake (i := 2) (oi := { dst := some 89, op := Op.slice 23 (Operand.tmp 18) none (some (Operand.const (Value.int IntKind.i64 8))) none, type := 26, pos := "law.go:112", after := #[], guard := none }) rfl (by kernel_rfl) (by kernel_rfl) (by kernel_rfl) (fun _ _ _ h => h) (by rfl) (fun w' hk => exec_8_23 rfl rfl) ?_
    simp only [Act.put, List.setIfInBounds_toArray, List.set_cons_zero, List.set_cons_succ]
    refine anyTake (i := 3) (oi := { dst := some 90, op := Op.convert 26 9 (Operand.tmp 89), type := 9, pos := "law.go:112", after := #[{ on := 2, ground := Ground.data }], guard := none }) rfl (by kernel_rfl) (by kernel_rfl) (by kernel_rfl) (fun _ _ _ h => h) (by rfl) (fun w' hk => exec_convert rfl (conv_src ((O22.out.drew.keeps hk id).src8))) ?_
    simp only [Act.put, List.setIfInBounds_toArray, List.set_cons_zero, List.set_cons_succ]
    refine anyTake (i := 4) (oi := { dst := some 91, op := Op.slice 23 (Operand.tmp 12) none (some (Operand.const (Value.int IntKind.i64 8))) none, type := 26, pos := "law.go:112", after := #[], guard := none }) rfl (by kernel_rfl) (by kernel_rfl) (by kernel_rfl) (fun _ _ _ h => h) (by rfl) (fun w' hk => exec_8_23 rfl rfl) ?_
    simp only [Act.put, List.setIfInBounds_toArray, List.set_cons_zero, List.set_cons_succ]
    refine anyTake (i := 5) (oi := { dst := some 92, op := Op.convert 26 9 (Operand.tmp 91), type := 9, pos := "law.go:112", after := #[{ on := 4, ground := Ground.data }], guard := none }) rfl (by kernel_rfl) (by kernel_rfl) (by kernel_rfl) (fun _ _ _ h => h) (by rfl) (fun w' hk => exec_convert rfl (conv_src ((N22.out.drew.keeps hk id).src8))) ?_
    simp only [Act.put, List.setIfInBounds_toArray, List.set_cons_zero, List.set_cons_succ]
    refine anyTake (i := 6) (oi := { dst := some 93, op := Op.binOp BinOp.eql 9 (Operand.tmp 90) (Operand.tmp 92) 9, type := 4, pos := "law.go:112", after := #[{ on := 3, ground := Ground.data }, { on := 5, ground := Ground.data }], guard := none }) (v := .bool true) rfl (by kernel_rfl) (by kernel_rfl) (by kernel_rfl) (fun _ _ _ h => h) (by rfl) (fun w' hk => by go_simp) ?_
    simp only [Act.put, List.setIfInBounds_toArray, List.set_cons_zero, List.set_cons_succ]
    refine anyTakeE (i := 7) (oi := { dst := some 94, op := Op.binOp BinOp.neq 4 (Operand.tmp 88) (Operand.tmp 93) 4, type := 4, pos := "law.go:112", after := #[{ on := 1, ground := Ground.data }, { on := 6, ground := Ground.data }], guard := none }) rfl (by kernel_rfl) (by kernel_rfl) (by kernel_rfl) (fun _ _ _ _ h => h) (by rfl) ?_
    apply Exists.intro
    refine ⟨fun w' hk => ?_, ?_⟩
    · go_simp <;> with_reducible rfl
    simp only [Act.put, List.setIfInBounds_toArray, List.set_cons_zero, List.set_cons_succ]
    refine anyTakeE (i := 8) (oi := { dst := some 95, op := Op.move (Operand.tmp 94), type := 4, pos := "law.go:112", after := #[{ on := 7, ground := Ground.data }], guard := none }) rfl (by kernel_rfl) (by kernel_rfl) (by kernel_rfl) (fun _ _ _ _ h => h) (by rfl) ?_
    apply Exists.intro
    refine ⟨fun w' hk => ?_, ?_⟩
    · go_simp <;> with_reducible rfl
    simp only [Act.put, List.setIfInBounds_toArray, List.set_cons_zero, List.set_cons_succ]
    refine anyTakeE (i := 9) (oi := { dst := some 96, op := Op.move (Operand.tmp 22), type := 27, pos := "law.go:112", after := #[{ on := 8, ground := Ground.guard }], guard := some (8, false) }) rfl (by kernel_rfl) (by kernel_rfl) (by kernel_rfl) (fun _ _ _ _ h => h) (by rfl) ?_
    apply Exists.intro
    refine ⟨fun w' hk => ?_, ?_⟩
    · go_simp <;> with_reducible rfl
    simp only [Act.put, List.setIfInBounds_toArray, List.set_cons_zero, List.set_cons_succ]
    refine anyTakeE (i := 10) (oi := { dst := some 97, op := Op.binOp BinOp.neq 27 (Operand.tmp 96) (Operand.const (Value.int IntKind.i64 0)) 27, type := 4, pos := "law.go:112", after := #[{ on := 9, ground := Ground.data }, { on := 8, ground := Ground.guard }], guard := some (8, false) }) rfl (by kernel_rfl) (by kernel_rfl) (by kernel_rfl) (fun _ _ _ _ h => h) (by rfl) ?_
    apply Exists.intro
    refine ⟨fun w' hk => ?_, ?_⟩
    · go_simp <;> with_reducible rfl
    simp only [Act.put, List.setIfInBounds_toArray, List.set_cons_zero, List.set_cons_succ]
    refine anyTakeE (i := 11) (oi := { dst := some 98, op := Op.move (Operand.tmp 97), type := 4, pos := "law.go:112", after := #[{ on := 10, ground := Ground.data }, { on := 8, ground := Ground.chain }, { on := 8, ground := Ground.guard }], guard := some (8, false) }) rfl (by kernel_rfl) (by kernel_rfl) (by kernel_rfl) (fun _ _ _ _ h => h) (by rfl) ?_
    apply Exists.intro
    refine ⟨fun w' hk => ?_, ?_⟩
    · go_simp <;> with_reducible rfl
    simp only [Act.put, List.setIfInBounds_toArray, List.set_cons_zero, List.set_cons_succ]
    refine anySkip (i := 12) (oi := { dst := some 99, op := Op.move (Operand.tmp 22), type := 27, pos := "law.go:112", after := #[{ on := 11, ground := Ground.guard }], guard := some (11, true) }) rfl (by kernel_rfl) (by kernel_rfl) (by kernel_rfl) (fun _ _ _ h => h) (by rfl) ?_
    simp only [Act.put, List.setIfInBounds_toArray, List.set_cons_zero, List.set_cons_succ]
    refine anySkip (i := 13) (oi := { dst := some 100, op := Op.binOp BinOp.neq 27 (Operand.tmp 99) (Operand.const (Value.int IntKind.i64 4)) 27, type := 4, pos := "law.go:112", after := #[{ on := 12, ground := Ground.data }, { on := 11, ground := Ground.guard }], guard := some (11, true) }) rfl (by kernel_rfl) (by kernel_rfl) (by kernel_rfl) (fun _ _ _ h => h) (by rfl) ?_
    simp only [Act.put, List.setIfInBounds_toArray, List.set_cons_zero, List.set_cons_succ]
    refine anyTakeE (i := 14) (oi := { dst := some 101, op := Op.pick (Operand.tmp 98) (Operand.tmp 100) (Operand.const (Value.bool false)), type := 4, pos := "law.go:112", after := #[{ on := 11, ground := Ground.data }, { on := 13, ground := Ground.data }, { on := 8, ground := Ground.guard }], guard := some (8, false) }) rfl (by kernel_rfl) (by kernel_rfl) (by kernel_rfl) (fun _ _ _ _ h => h) (by rfl) ?_
    apply Exists.intro
    refine ⟨fun w' hk => ?_, ?_⟩
    · go_simp <;> with_reducible rfl
    simp only [Act.put, List.setIfInBounds_toArray, List.set_cons_zero, List.set_cons_succ]
    refine anyTakeE (i := 15) (oi := { dst := some 102, op := Op.pick (Operand.tmp 95) (Operand.const (Value.bool true)) (Operand.tmp 101), type := 4, pos := "law.go:112", after := #[{ on := 8, ground := Ground.data }, { on := 14, ground := Ground.data }], guard := none }) rfl (by kernel_rfl) (by kernel_rfl) (by kernel_rfl) (fun _ _ _ _ h => h) (by rfl) ?_
    apply Exists.intro
    refine ⟨fun w' hk => ?_, ?_⟩
    · go_simp <;> with_reducible rfl
    simp only [Act.put, List.setIfInBounds_toArray, List.set_cons_zero, List.set_cons_succ]
    refine anyDone (by kernel_rfl) ?_ _
    clear hq8
    have H23 := Lib.hid (show Bd w w22.drew w.heap.size g6 g7 k9 A d9.length c d9 ch dh from H22.out.below (below_drewN' (Below.refl _ w22) 1))
    have HS23 := Lib.hid (show Src w22.drew (· < w22.drew.heap.size) A6 L.length (bcs L) from HS22.out.drewN 1)
    clear H22 HS22 N22 O22
    go_wp2_with fail
    change Calls _ _ _ w22.drew _
    generalize w22.drew = w23 at *
    refine (own_any w23 (· < w23.heap.size) A6 L.length c6 L HS23.out (fun b hb => hb) (by omega)).mono ?_
    rintro e24 w24 ⟨v24, rfl, ho24, hb24⟩
    obtain ⟨g, cap, cur, rfl, hgb, hgr, hgc, hgm, hgs, hgt⟩ := own_row ho24 (by omega)
    have H24 := Lib.hid (H23.out.below hb24)
    have HGW := Lib.hid (fun (g : Nat) (hg : w23.heap.size ≤ g) => (⟨Nat.le_trans H23.out.B.size hg, by have := H23.out.C.lt; omega, by have := H23.out.D.lt; omega, by have := H23.out.R.lt; omega⟩ : w.heap.size ≤ g ∧ g ≠ g6 ∧ g ≠ g7 ∧ g ≠ w.heap.size))
    clear ho24 hb24 H23 HS23
    go_wp2_with fail
    refine (pick_any at_ L.length hat (by omega) (by omega) w24).mono ?_
    rintro e25 w25 ⟨⟨j, hj, rfl⟩, rfl⟩
    have hji : (j : Int) < (L.length : Int) := by omega
    have hx := u8_xor_nat (L[j]).toNat y.toNat (L[j]).toNat_lt y.toNat_lt
    rw [← UInt8.toNat_xor] at hx
    have hcj : w25.cell? ⟨g, j, none⟩ = some (.int .u8 ((L[j]).toNat : Int)) := by
      have h1 := (row_src hgr (by omega) hgt).cells (b := g) (o := 0) j (bc L[j]) (by rw [bcs_get, List.getElem?_eq_getElem hj]; rfl)
      rw [addr_add, Nat.zero_add] at h1
      exact h1
    have HXP := Lib.hid (fun h : L[j] ^^^ y = L.getD j 0 => xor_self (a := L[j]) (y := y) (by rw [h, List.getD_eq_getElem?_getD, List.getElem?_eq_getElem hj]; rfl))
    have HX0 : Hid (y = 0 → L.set j (L[j] ^^^ y) = L) := Lib.hid fun h => by subst h; simp
    have HGR := Lib.hid hgr
    have HGT := Lib.hid hgt
    generalize hxx : L[j] ^^^ y = xx at *
    have hgw : w.heap.size ≤ g ∧ g ≠ g6 ∧ g ≠ g7 ∧ g ≠ w.heap.size := HGW.out g hgb
    clear hxx hgr hgt hat HGW
    have hxu : (xx.toNat : Int) ≤ 255 := by have := xx.toNat_lt; omega
    have hfz := frozen_of_row w25 g j _ _ HGR.out
    have H26 := Lib.hid (H24.out.stored (setCell_grown w25 g j (.int .u8 (xx.toNat : Int))) hgw)
    have T26 := Lib.hid (row_src (setCell_row5 HGR.out j (.int .u8 (xx.toNat : Int))) (m := L.length) (l := L.set j xx) (by simp; omega) (set_row xx hj HGT.out))
    go_wp2_with (first | ((with_reducible show wpList _ _ _ (⟨_, .load 23 (.tmp 6), _, _, _, _⟩ :: _) _ _); refine wpList_exec rfl _ (exec_dig rfl rfl H26.out.C) ?_))
    clear hfz
    generalize w25.setCell ⟨g, j, none⟩ (.int .u8 (xx.toNat : Int)) = w26 at *
    clear H24 HGR HGT hcj
    have HTL : Hid ((L.set j xx).length = L.length) := Lib.hid (by simp)
    have HTX : Hid (readE ch (L.set j xx) = 0 → readK (L.set j xx) = k9 → readD (L.set j xx) = d9 → y = 0) := Lib.hid fun a b c => HXP.out (HPRE.out j _ xx rfl hj a b c)
    clear HXP hx hji
    generalize L.set j xx = T at *
    refine (read_some w26 (· < w26.heap.size) ch hch (some ⟨g, 0, none⟩) L.length cap T T26.out (fun b hb => hb) ⟨hgc, hgm⟩ (by omega)).mono ?_
    rintro e27 w27 ⟨k27, A27, d27, ch27, c27, sz27, rfl, hl27, hs27, h27a, h27b, hb27, hd27, hz27⟩
    have HCH27 := Lib.hid hl27
    have H27 := Lib.hid (H26.out.below hb27)
    have T27 := Lib.hid (T26.out.below hb27 (S' := (· < w27.heap.size)) (fun b hb => Nat.lt_of_lt_of_le hb hb27.size))
    have SD27 := Lib.hid (hs27.weak (S' := (· < w27.heap.size)) (fun b hb => hb.2))
    have HM27 := Lib.hid (And.intro h27a h27b)
    clear hl27 hs27 h27a h27b hb27 H26 T26
    unfold vR
    by_cases hy : y = 0
    · have hT := HX0.out hy
      rw [show readE ch T = 0 from by rw [hT]; exact HRE0.out]
      subst hy
      clear HX0 HTX hz27
      go_wp2_with (first | ((with_reducible show wpList _ _ _ (⟨some 25, .alloc 31, _, _, _, _⟩ :: _) _ _); refine wpList_alloc_row rfl 31 rfl zR zero31 ?_; intro w28 hh28 hz28 hg28; have HA28 := Lib.hid (RAt.mk (k := 0) (A := none) (n := 0) (c := 0) hh28); have HB28 := Lib.hid (below_of_grownBy hg28); have HZ28 := Lib.hid hz28; clear hh28 hz28 hg28) | ((with_reducible show wpList _ _ _ (⟨some 26, .alloc 23, _, _, _, _⟩ :: _) _ _); refine wpList_alloc_row rfl 23 rfl (.agg (zbs 32)) zero23 ?_; intro w29 hh29 hz29 hg29; have HA29 := Lib.hid (DAt.mk (ch := List.replicate 32 0) hh29 (by simp)); have HB29 := Lib.hid (below_of_grownBy hg29); have HZ29 := Lib.hid hz29; clear hh29 hz29 hg29) | ((with_reducible show wpList _ _ _ (⟨none, .store 31 (.tmp 25) (.tmp 122), _, _, _, _⟩ :: _) _ _); refine wpList_store_all rfl 31 (.tmp 25) (.tmp 122) rfl w27.heap.size rfl #[.int .u8 (k27.toNat : Int), .slice A27 d27.length c27] rfl 31 _ (HA28.out.below HB29.out (by have := HZ28.out; omega)).row (by rw [size31]; rfl) rfl (by intro u hu; simp at hu; rcases hu with rfl | rfl <;> rfl) ?_; intro w30 hh30 hg30 hz30; have HR30 := Lib.hid (RAt.mk hh30); have HG30 := Lib.hid hg30; clear hh30 hz30 hg30) | ((with_reducible show wpList _ _ _ (⟨none, .store 23 (.tmp 26) (.tmp 124), _, _, _, _⟩ :: _) _ _); refine wpList_store_all rfl 23 (.tmp 26) (.tmp 124) rfl w28.heap.size rfl (bcs ch27).toArray rfl 23 _ (HA29.out.grown HG30.out (fun r e => by injection e with e; have := HZ28.out; omega)).row (by rw [size23]; simp [bcs_len, HCH27.out]) (by simp [bcs_len, HCH27.out]) (by simpa using bcs_one _) ?_; intro w31 hh31 hg31 hz31; have HD31 := Lib.hid (DAt.mk hh31 HCH27.out); have HG31 := Lib.hid hg31; clear hh31 hz31 hg31; have P31 := Lib.hid (pack4 HB28.out HZ28.out HB29.out HR30.out HG30.out HD31.out HG31.out); have H31 := Lib.hid (H27.out.below P31.out.1); have T31 := Lib.hid (T27.out.below P31.out.1 (S' := (· < w31.heap.size)) (fun b hb => Nat.lt_of_lt_of_le hb P31.out.1.size)); have SD31 := Lib.hid (SD27.out.below P31.out.1 (S' := (· < w31.heap.size)) (fun b hb => Nat.lt_of_lt_of_le hb P31.out.1.size)); have R31 := Lib.hid P31.out.2.1; clear HA28 HB28 HA29 HB29 HR30 HG30 HD31 HG31 HZ28 HZ29 P31))
      go_ret
      exact ⟨rfl, H31.out.B⟩
    have hy0 : (((y.toNat : Int) == 0) = false) := by rw [u8_zero]; simp; exact fun e => hy (UInt8.toNat_inj.1 (by simpa using e))
    by_cases he : readE ch T = 0
    rotate_left
    · clear HX0 HTX hz27 hy
      generalize readE ch T = er at *
      have he' : (((er : Int) == 0) = false) := by simp; omega
      have hy1 : ¬ ((y.toNat : Int) = 0) := by simpa using hy0
      have hy2 : ((y.toNat : Int) != 0) = true := by simpa using hy0
      go_wp2_with (first | ((with_reducible show wpList _ _ _ (⟨some 25, .alloc 31, _, _, _, _⟩ :: _) _ _); refine wpList_alloc_row rfl 31 rfl zR zero31 ?_; intro w28 hh28 hz28 hg28; have HA28 := Lib.hid (RAt.mk (k := 0) (A := none) (n := 0) (c := 0) hh28); have HB28 := Lib.hid (below_of_grownBy hg28); have HZ28 := Lib.hid hz28; clear hh28 hz28 hg28) | ((with_reducible show wpList _ _ _ (⟨some 26, .alloc 23, _, _, _, _⟩ :: _) _ _); refine wpList_alloc_row rfl 23 rfl (.agg (zbs 32)) zero23 ?_; intro w29 hh29 hz29 hg29; have HA29 := Lib.hid (DAt.mk (ch := List.replicate 32 0) hh29 (by simp)); have HB29 := Lib.hid (below_of_grownBy hg29); have HZ29 := Lib.hid hz29; clear hh29 hz29 hg29) | ((with_reducible show wpList _ _ _ (⟨none, .store 31 (.tmp 25) (.tmp 122), _, _, _, _⟩ :: _) _ _); refine wpList_store_all rfl 31 (.tmp 25) (.tmp 122) rfl w27.heap.size rfl #[.int .u8 (k27.toNat : Int), .slice A27 d27.length c27] rfl 31 _ (HA28.out.below HB29.out (by have := HZ28.out; omega)).row (by rw [size31]; rfl) rfl (by intro u hu; simp at hu; rcases hu with rfl | rfl <;> rfl) ?_; intro w30 hh30 hg30 hz30; have HR30 := Lib.hid (RAt.mk hh30); have HG30 := Lib.hid hg30; clear hh30 hz30 hg30) | ((with_reducible show wpList _ _ _ (⟨none, .store 23 (.tmp 26) (.tmp 124), _, _, _, _⟩ :: _) _ _); refine wpList_store_all rfl 23 (.tmp 26) (.tmp 124) rfl w28.heap.size rfl (bcs ch27).toArray rfl 23 _ (HA29.out.grown HG30.out (fun r e => by injection e with e; have := HZ28.out; omega)).row (by rw [size23]; simp [bcs_len, HCH27.out]) (by simp [bcs_len, HCH27.out]) (by simpa using bcs_one _) ?_; intro w31 hh31 hg31 hz31; have HD31 := Lib.hid (DAt.mk hh31 HCH27.out); have HG31 := Lib.hid hg31; clear hh31 hz31 hg31; have P31 := Lib.hid (pack4 HB28.out HZ28.out HB29.out HR30.out HG30.out HD31.out HG31.out); have H31 := Lib.hid (H27.out.below P31.out.1); have T31 := Lib.hid (T27.out.below P31.out.1 (S' := (· < w31.heap.size)) (fun b hb => Nat.lt_of_lt_of_le hb P31.out.1.size)); have SD31 := Lib.hid (SD27.out.below P31.out.1 (S' := (· < w31.heap.size)) (fun b hb => Nat.lt_of_lt_of_le hb P31.out.1.size)); have R31 := Lib.hid P31.out.2.1; clear HA28 HB28 HA29 HB29 HR30 HG30 HD31 HG31 HZ28 HZ29 P31))
      go_ret
      exact ⟨rfl, H31.out.B⟩
    obtain ⟨rfl, rfl, rfl, rfl⟩ := hz27 he
    rw [he]
    clear HX0 hz27
    go_wp2_with (first | ((with_reducible show wpList _ _ _ (⟨some 25, .alloc 31, _, _, _, _⟩ :: _) _ _); refine wpList_alloc_row rfl 31 rfl zR zero31 ?_; intro w28 hh28 hz28 hg28; have HA28 := Lib.hid (RAt.mk (k := 0) (A := none) (n := 0) (c := 0) hh28); have HB28 := Lib.hid (below_of_grownBy hg28); have HZ28 := Lib.hid hz28; clear hh28 hz28 hg28) | ((with_reducible show wpList _ _ _ (⟨some 26, .alloc 23, _, _, _, _⟩ :: _) _ _); refine wpList_alloc_row rfl 23 rfl (.agg (zbs 32)) zero23 ?_; intro w29 hh29 hz29 hg29; have HA29 := Lib.hid (DAt.mk (ch := List.replicate 32 0) hh29 (by simp)); have HB29 := Lib.hid (below_of_grownBy hg29); have HZ29 := Lib.hid hz29; clear hh29 hz29 hg29) | ((with_reducible show wpList _ _ _ (⟨none, .store 31 (.tmp 25) (.tmp 122), _, _, _, _⟩ :: _) _ _); refine wpList_store_all rfl 31 (.tmp 25) (.tmp 122) rfl w27.heap.size rfl #[.int .u8 ((readK T).toNat : Int), .slice A27 (readD T).length c27] rfl 31 _ (HA28.out.below HB29.out (by have := HZ28.out; omega)).row (by rw [size31]; rfl) rfl (by intro u hu; simp at hu; rcases hu with rfl | rfl <;> rfl) ?_; intro w30 hh30 hg30 hz30; have HR30 := Lib.hid (RAt.mk hh30); have HG30 := Lib.hid hg30; clear hh30 hz30 hg30) | ((with_reducible show wpList _ _ _ (⟨none, .store 23 (.tmp 26) (.tmp 124), _, _, _, _⟩ :: _) _ _); refine wpList_store_all rfl 23 (.tmp 26) (.tmp 124) rfl w28.heap.size rfl (bcs (nextL ch (readK T) (readD T))).toArray rfl 23 _ (HA29.out.grown HG30.out (fun r e => by injection e with e; have := HZ28.out; omega)).row (by rw [size23]; simp [bcs_len, HCH27.out]) (by simp [bcs_len, HCH27.out]) (by simpa using bcs_one _) ?_; intro w31 hh31 hg31 hz31; have HD31 := Lib.hid (DAt.mk hh31 HCH27.out); have HG31 := Lib.hid hg31; clear hh31 hz31 hg31; have P31 := Lib.hid (pack4 HB28.out HZ28.out HB29.out HR30.out HG30.out HD31.out HG31.out); have H31 := Lib.hid (H27.out.below P31.out.1); have T31 := Lib.hid (T27.out.below P31.out.1 (S' := (· < w31.heap.size)) (fun b hb => Nat.lt_of_lt_of_le hb P31.out.1.size)); have SD31 := Lib.hid (SD27.out.below P31.out.1 (S' := (· < w31.heap.size)) (fun b hb => Nat.lt_of_lt_of_le hb P31.out.1.size)); have R31 := Lib.hid P31.out.2.1; clear HA28 HB28 HA29 HB29 HR30 HG30 HD31 HG31 HZ28 HZ29 P31) | ((with_reducible show wpList _ _ _ (⟨_, .load 23 (.tmp 6), _, _, _, _⟩ :: _) _ _); refine wpList_exec rfl _ (exec_dig rfl rfl H31.out.C) ?_) | ((with_reducible show wpList _ _ _ (⟨_, .load 31 (.tmp 25), _, _, _, _⟩ :: _) _ _); refine wpList_exec rfl _ (exec_rec rfl rfl R31.out) ?_))
    clear H27 T27 SD27
    generalize w27.heap.size = g25 at *
    generalize w28.heap.size = g26 at *
    obtain ⟨k1, k2, k3⟩ := readE_ok he
    have HK2 := Lib.hid k2
    have hszt : sizeR (readD T).length ≤ L.length := by rw [HTL.out] at k3; exact k3
    have HSZC : Hid (sizeR (readD T).length ≤ cap) := Lib.hid (Nat.le_trans hszt hgc)
    have HNE : Hid (((readK T == k9) && (readD T == d9)) = false) := Lib.hid (by
      cases h1 : (readK T == k9) with
      | false => rfl
      | true => cases h2 : (readD T == d9) with
        | false => rfl
        | true => exact absurd (HTX.out he (by simpa using h1) (by simpa using h2)) hy)
    refine (bytes_any w31 (· < w31.heap.size) ch hch (readK T) A27 (readD T).length c27 (readD T) SD31.out (fun b hb => hb) HM27.out (by omega)).mono ?_
    rintro e32 w32 ⟨h32, -, hb32⟩
    obtain ⟨v32, rfl, ho32⟩ := h32 k1
    clear h32
    obtain ⟨A32, c32, rfl, hl32, hm32, hs32⟩ := ho32.src
    have H32 := Lib.hid (H31.out.below hb32)
    have T32 := Lib.hid (T31.out.below hb32 (S' := (· < w32.heap.size)) (fun b hb => Nat.lt_of_lt_of_le hb hb32.size))
    have SD32 := Lib.hid (SD31.out.below hb32 (S' := (· < w32.heap.size)) (fun b hb => Nat.lt_of_lt_of_le hb hb32.size))
    have R32 := Lib.hid (R31.out.below hb32 R31.out.lt)
    have S32 := Lib.hid (hs32.weak (S' := (· < w32.heap.size)) (fun b hb => hb.2))
    clear hl32 hm32 hs32 ho32 hb32 H31 T31 SD31 R31
    go_wp2_with (first | ((with_reducible show wpList _ _ _ (⟨some 29, .alloc 23, _, _, _, _⟩ :: _) _ _); refine wpList_alloc_row rfl 23 rfl (.agg (zbs 32)) zero23 ?_; intro w33 hh33 hz33 hg33; have HA33 := Lib.hid (DAt.mk (ch := List.replicate 32 0) hh33 (by simp)); have HB33 := Lib.hid (below_of_grownBy hg33); have HZ33 := Lib.hid hz33; clear hh33 hz33 hg33) | ((with_reducible show wpList _ _ _ (⟨none, .store 23 (.tmp 29) (.tmp 143), _, _, _, _⟩ :: _) _ _); refine wpList_store_all rfl 23 (.tmp 29) (.tmp 143) rfl w32.heap.size rfl (bcs (nextL ch (readK T) (readD T))).toArray rfl 23 _ HA33.out.row (by rw [size23]; simp [bcs_len, HCH27.out]) (by simp [bcs_len, HCH27.out]) (by simpa using bcs_one _) ?_; intro w34 hh34 hg34 hz34; have HD34 := Lib.hid (DAt.mk hh34 HCH27.out); have HG34 := Lib.hid hg34; clear hh34 hz34 hg34; have P34 := Lib.hid (pack2 HB33.out HD34.out HG34.out); have H34 := Lib.hid (H32.out.below P34.out.1); have T34 := Lib.hid (T32.out.below P34.out.1 (S' := (· < w34.heap.size)) (fun b hb => Nat.lt_of_lt_of_le hb P34.out.1.size)); have S34 := Lib.hid (S32.out.below P34.out.1 (S' := (· < w34.heap.size)) (fun b hb => Nat.lt_of_lt_of_le hb P34.out.1.size)); have SD34 := Lib.hid (SD32.out.below P34.out.1 (S' := (· < w34.heap.size)) (fun b hb => Nat.lt_of_lt_of_le hb P34.out.1.size)); have R34 := Lib.hid (R32.out.below P34.out.1 R32.out.lt); clear HA33 HB33 HZ33 HD34 HG34 P34))
    clear H32 T32 SD32 R32 S32
    have T35 : Hid (Src w34.drew (· < w34.drew.heap.size) (some ⟨g, 0, none⟩) (sizeR (readD T).length) (bcs (recB ch (readK T) (readD T)))) := Lib.hid (by
      have e1 := (T34.out.take_ _ hszt)
      rw [← bcs_takeD, HK2.out] at e1
      exact e1.drewN 1)
    have S35 := Lib.hid (show Src w34.drew (· < w34.drew.heap.size) A32 (recB ch (readK T) (readD T)).length (bcs (recB ch (readK T) (readD T))) from S34.out.drewN 1)
    have H35 := Lib.hid (show Bd w w34.drew w.heap.size g6 g7 k9 A d9.length c d9 ch dh from H34.out.below (below_drewN' (Below.refl _ w34) 1))
    have SD35 := Lib.hid (show Src w34.drew (· < w34.drew.heap.size) A27 (readD T).length (bcs (readD T)) from SD34.out.drewN 1)
    have R35 := Lib.hid R34.out.drew
    clear T34 S34 H34 SD34 R34
    refine anyStart (fun _ => False) (by kernel_rfl) ?_
    change wpAnyR _ _ _ _ _ _ _ _ w34.drew
    generalize w34.drew = w42 at *
    refine anyTakeE (i := 0) (oi := { dst := some 145, op := Op.move (Operand.tmp 30), type := 27, pos := "law.go:123", after := #[], guard := none }) rfl (by kernel_rfl) (by kernel_rfl) (by kernel_rfl) (fun _ _ _ _ h => h) (by rfl) ?_
    apply Exists.intro
    refine ⟨fun w' hk => ?_, ?_⟩
    · go_simp <;> with_reducible rfl
    simp only [Act.put, List.setIfInBounds_toArray, List.set_cons_zero, List.set_cons_succ]
    refine anyTakeE (i := 1) (oi := { dst := some 146, op := Op.binOp BinOp.eql 27 (Operand.tmp 145) (Operand.const (Value.int IntKind.i64 0)) 27, type := 4, pos := "law.go:123", after := #[{ on := 0, ground := Ground.data }], guard := none }) rfl (by kernel_rfl) (by kernel_rfl) (by kernel_rfl) (fun _ _ _ _ h => h) (by rfl) ?_
    apply Exists.intro
    refine ⟨fun w' hk => ?_, ?_⟩
    · go_simp <;> with_reducible rfl
    simp only [Act.put, List.setIfInBounds_toArray, List.set_cons_zero, List.set_cons_succ]
    refine anyTakeE (i := 2) (oi := { dst := some 147, op := Op.move (Operand.tmp 146), type := 4, pos := "law.go:123", after := #[{ on := 1, ground := Ground.data }], guard := none }) rfl (by kernel_rfl) (by kernel_rfl) (by kernel_rfl) (fun _ _ _ _ h => h) (by rfl) ?_
    apply Exists.intro
    refine ⟨fun w' hk => ?_, ?_⟩
    · go_simp <;> with_reducible rfl
    simp only [Act.put, List.setIfInBounds_toArray, List.set_cons_zero, List.set_cons_succ]
    refine anyTakeE (i := 3) (oi := { dst := some 148, op := Op.move (Operand.tmp 28), type := 26, pos := "law.go:123", after := #[{ on := 2, ground := Ground.guard }], guard := some (2, true) }) rfl (by kernel_rfl) (by kernel_rfl) (by kernel_rfl) (fun _ _ _ _ h => h) (by rfl) ?_
    apply Exists.intro
    refine ⟨fun w' hk => ?_, ?_⟩
    · go_simp <;> with_reducible rfl
    simp only [Act.put, List.setIfInBounds_toArray, List.set_cons_zero, List.set_cons_succ]
    refine anyTake (i := 4) (oi := { dst := some 149, op := Op.convert 26 9 (Operand.tmp 148), type := 9, pos := "law.go:123", after := #[{ on := 3, ground := Ground.data }, { on := 2, ground := Ground.guard }], guard := some (2, true) }) rfl (by kernel_rfl) (by kernel_rfl) (by kernel_rfl) (fun _ _ _ h => h) (by rfl) (fun w' hk => exec_convert rfl (conv_src (S35.out.keeps hk (fun b hb => ⟨hb, id⟩)))) ?_
    simp only [Act.put, List.setIfInBounds_toArray, List.set_cons_zero, List.set_cons_succ]
    refine anyTakeE (i := 5) (oi := { dst := some 150, op := Op.move (Operand.tmp 23), type := 26, pos := "law.go:123", after := #[{ on := 2, ground := Ground.guard }], guard := some (2, true) }) rfl (by kernel_rfl) (by kernel_rfl) (by kernel_rfl) (fun _ _ _ _ h => h) (by rfl) ?_
    apply Exists.intro
    refine ⟨fun w' hk => ?_, ?_⟩
    · go_simp <;> with_reducible rfl
    simp only [Act.put, List.setIfInBounds_toArray, List.set_cons_zero, List.set_cons_succ]
    refine anyTakeE (i := 6) (oi := { dst := some 151, op := Op.move (Operand.tmp 15), type := 3, pos := "law.go:123", after := #[{ on := 2, ground := Ground.guard }], guard := some (2, true) }) rfl (by kernel_rfl) (by kernel_rfl) (by kernel_rfl) (fun _ _ _ _ h => h) (by rfl) ?_
    apply Exists.intro
    refine ⟨fun w' hk => ?_, ?_⟩
    · go_simp <;> with_reducible rfl
    simp only [Act.put, List.setIfInBounds_toArray, List.set_cons_zero, List.set_cons_succ]
    refine anyTake (i := 7) (oi := { dst := some 152, op := Op.slice 26 (Operand.tmp 150) none (some (Operand.tmp 151)) none, type := 26, pos := "law.go:123", after := #[{ on := 5, ground := Ground.data }, { on := 6, ground := Ground.data }, { on := 2, ground := Ground.guard }], guard := some (2, true) }) rfl (by kernel_rfl) (by kernel_rfl) (by kernel_rfl) (fun _ _ _ h => h) (by rfl) (fun w' hk => exec_sh rfl rfl rfl HSZC.out) ?_
    simp only [Act.put, List.setIfInBounds_toArray, List.set_cons_zero, List.set_cons_succ]
    refine anyTake (i := 8) (oi := { dst := some 153, op := Op.convert 26 9 (Operand.tmp 152), type := 9, pos := "law.go:123", after := #[{ on := 7, ground := Ground.data }, { on := 2, ground := Ground.guard }], guard := some (2, true) }) rfl (by kernel_rfl) (by kernel_rfl) (by kernel_rfl) (fun _ _ _ h => h) (by rfl) (fun w' hk => exec_convert rfl (conv_src (T35.out.keeps hk (fun b hb => ⟨hb, id⟩)))) ?_
    simp only [Act.put, List.setIfInBounds_toArray, List.set_cons_zero, List.set_cons_succ]
    refine anyTake (i := 9) (oi := { dst := some 154, op := Op.binOp BinOp.eql 9 (Operand.tmp 149) (Operand.tmp 153) 9, type := 4, pos := "law.go:123", after := #[{ on := 4, ground := Ground.data }, { on := 8, ground := Ground.data }, { on := 2, ground := Ground.guard }], guard := some (2, true) }) (v := .bool true) rfl (by kernel_rfl) (by kernel_rfl) (by kernel_rfl) (fun _ _ _ h => h) (by rfl) (fun w' hk => by go_simp) ?_
    simp only [Act.put, List.setIfInBounds_toArray, List.set_cons_zero, List.set_cons_succ]
    refine anyTakeE (i := 10) (oi := { dst := some 155, op := Op.pick (Operand.tmp 147) (Operand.tmp 154) (Operand.const (Value.bool false)), type := 4, pos := "law.go:123", after := #[{ on := 2, ground := Ground.data }, { on := 9, ground := Ground.data }], guard := none }) rfl (by kernel_rfl) (by kernel_rfl) (by kernel_rfl) (fun _ _ _ _ h => h) (by rfl) ?_
    apply Exists.intro
    refine ⟨fun w' hk => ?_, ?_⟩
    · go_simp <;> with_reducible rfl
    simp only [Act.put, List.setIfInBounds_toArray, List.set_cons_zero, List.set_cons_succ]
    refine anyTakeE (i := 11) (oi := { dst := some 156, op := Op.move (Operand.tmp 155), type := 4, pos := "law.go:123", after := #[{ on := 10, ground := Ground.data }, { on := 2, ground := Ground.chain }], guard := none }) rfl (by kernel_rfl) (by kernel_rfl) (by kernel_rfl) (fun _ _ _ _ h => h) (by rfl) ?_
    apply Exists.intro
    refine ⟨fun w' hk => ?_, ?_⟩
    · go_simp <;> with_reducible rfl
    simp only [Act.put, List.setIfInBounds_toArray, List.set_cons_zero, List.set_cons_succ]
    refine anyTake (i := 12) (oi := { dst := some 157, op := Op.load 31 (Operand.tmp 25), type := 31, pos := "law.go:123", after := #[{ on := 11, ground := Ground.guard }], guard := some (11, true) }) rfl (by kernel_rfl) (by kernel_rfl) (by kernel_rfl) (fun _ _ _ h => h) (by rfl) (fun w' hk => exec_rec rfl rfl (R35.out.keeps hk id)) ?_
    simp only [Act.put, List.setIfInBounds_toArray, List.set_cons_zero, List.set_cons_succ]
    refine anyTake (i := 13) (oi := { dst := some 158, op := Op.load 31 (Operand.tmp 5), type := 31, pos := "law.go:123", after := #[{ on := 11, ground := Ground.guard }], guard := some (11, true) }) rfl (by kernel_rfl) (by kernel_rfl) (by kernel_rfl) (fun _ _ _ h => h) (by rfl) (fun w' hk => exec_rec rfl rfl (H35.out.R.keeps hk id)) ?_
    simp only [Act.put, List.setIfInBounds_toArray, List.set_cons_zero, List.set_cons_succ]
    refine anyCall (i := 14) (oi := { dst := some 159, op := Op.call { callee := Callee.value (Operand.func 12), args := #[Operand.tmp 157, Operand.tmp 158], argTypes := #[31, 31] }, type := 4, pos := "law.go:123", after := #[{ on := 12, ground := Ground.data }, { on := 13, ground := Ground.data }, { on := 11, ground := Ground.chain }, { on := 11, ground := Ground.guard }], guard := some (11, true) }) rfl (by kernel_rfl) (by rfl) ?_ ((record_any w42 (· < w42.heap.size) (· < w.heap.size) (readK T) k9 A27 A (readD T).length c27 d9.length c (readD T) d9 SD35.out H35.out.S (fun b hb => hb) H35.out.sl).mono ?_)
    · go_simp
    rintro e43 w43 ⟨rfl, hb43⟩
    have H43 := Lib.hid (H35.out.below hb43)
    refine ⟨_, rfl, Keeps.of_below hb43, ?_⟩
    rw [HNE.out]
    simp only [Act.put, List.setIfInBounds_toArray, List.set_cons_zero, List.set_cons_succ]
    refine anyTakeE (i := 15) (oi := { dst := some 160, op := Op.unOp UnOp.not 4 (Operand.tmp 159), type := 4, pos := "law.go:123", after := #[{ on := 14, ground := Ground.data }, { on := 11, ground := Ground.guard }], guard := some (11, true) }) rfl (by kernel_rfl) (by kernel_rfl) (by kernel_rfl) (fun _ _ _ _ h => h) (by rfl) ?_
    apply Exists.intro
    refine ⟨fun w' hk => ?_, ?_⟩
    · go_simp <;> with_reducible rfl
    simp only [Act.put, List.setIfInBounds_toArray, List.set_cons_zero, List.set_cons_succ]
    refine anyTakeE (i := 16) (oi := { dst := some 161, op := Op.pick (Operand.tmp 156) (Operand.tmp 160) (Operand.const (Value.bool false)), type := 4, pos := "law.go:123", after := #[{ on := 11, ground := Ground.data }, { on := 15, ground := Ground.data }], guard := none }) rfl (by kernel_rfl) (by kernel_rfl) (by kernel_rfl) (fun _ _ _ _ h => h) (by rfl) ?_
    apply Exists.intro
    refine ⟨fun w' hk => ?_, ?_⟩
    · go_simp <;> with_reducible rfl
    simp only [Act.put, List.setIfInBounds_toArray, List.set_cons_zero, List.set_cons_succ]
    refine anyTakeE (i := 17) (oi := { dst := some 10, op := Op.assign (Operand.tmp 161), type := 4, pos := "law.go:123", after := #[{ on := 16, ground := Ground.data }, { on := 14, ground := Ground.chain }, { on := 0, ground := Ground.phase }, { on := 1, ground := Ground.phase }, { on := 2, ground := Ground.phase }, { on := 3, ground := Ground.phase }, { on := 4, ground := Ground.phase }, { on := 5, ground := Ground.phase }, { on := 6, ground := Ground.phase }, { on := 7, ground := Ground.phase }, { on := 8, ground := Ground.phase }, { on := 9, ground := Ground.phase }, { on := 10, ground := Ground.phase }, { on := 11, ground := Ground.phase }, { on := 12, ground := Ground.phase }, { on := 13, ground := Ground.phase }, { on := 14, ground := Ground.phase }, { on := 15, ground := Ground.phase }, { on := 16, ground := Ground.phase }], guard := none }) rfl (by kernel_rfl) (by kernel_rfl) (by kernel_rfl) (fun _ _ _ _ h => h) (by rfl) ?_
    apply Exists.intro
    refine ⟨fun w' hk => ?_, ?_⟩
    · go_simp <;> with_reducible rfl
    simp only [Act.put, List.setIfInBounds_toArray, List.set_cons_zero, List.set_cons_succ]
    refine anyDone (by kernel_rfl) ?_ _
    go_wp2
    go_ret
    exact ⟨rfl, H43.out.B⟩
  · rw [HRED.out, if_neg hq]
    have hq8 : ((nextL dh k9 d9).take 8 == (nextL ch k9 d9).take 8) = false := by rw [beq_eq_false_iff_ne]; exact fun e => hq e.symm
    clear HRED hq
    refine anyStart (fun _ => False) (by kernel_rfl) ?_
    refine anyTakeE (i := 0) (oi := { dst := some 87, op := Op.move (Operand.tmp 22), type := 27, pos := "law.go:112", after := #[], guard := none }) rfl (by kernel_rfl) (by kernel_rfl) (by kernel_rfl) (fun _ _ _ _ h => h) (by rfl) ?_
    apply Exists.intro
    refine ⟨fun w' hk => ?_, ?_⟩
    · go_simp <;> with_reducible rfl
    simp only [Act.put, List.setIfInBounds_toArray, List.set_cons_zero, List.set_cons_succ]
    refine anyTakeE (i := 1) (oi := { dst := some 88, op := Op.binOp BinOp.eql 27 (Operand.tmp 87) (Operand.const (Value.int IntKind.i64 0)) 27, type := 4, pos := "law.go:112", after := #[{ on := 0, ground := Ground.data }], guard := none }) rfl (by kernel_rfl) (by kernel_rfl) (by kernel_rfl) (fun _ _ _ _ h => h) (by rfl) ?_
    apply Exists.intro
    refine ⟨fun w' hk => ?_, ?_⟩
    · go_simp <;> with_reducible rfl
    simp only [Act.put, List.setIfInBounds_toArray, List.set_cons_zero, List.set_cons_succ]
    refine anyTake (i := 2) (oi := { dst := some 89, op := Op.slice 23 (Operand.tmp 18) none (some (Operand.const (Value.int IntKind.i64 8))) none, type := 26, pos := "law.go:112", after := #[], guard := none }) rfl (by kernel_rfl) (by kernel_rfl) (by kernel_rfl) (fun _ _ _ h => h) (by rfl) (fun w' hk => exec_8_23 rfl rfl) ?_
    simp only [Act.put, List.setIfInBounds_toArray, List.set_cons_zero, List.set_cons_succ]
    refine anyTake (i := 3) (oi := { dst := some 90, op := Op.convert 26 9 (Operand.tmp 89), type := 9, pos := "law.go:112", after := #[{ on := 2, ground := Ground.data }], guard := none }) rfl (by kernel_rfl) (by kernel_rfl) (by kernel_rfl) (fun _ _ _ h => h) (by rfl) (fun w' hk => exec_convert rfl (conv_src ((O22.out.drew.keeps hk id).src8))) ?_
    simp only [Act.put, List.setIfInBounds_toArray, List.set_cons_zero, List.set_cons_succ]
    refine anyTake (i := 4) (oi := { dst := some 91, op := Op.slice 23 (Operand.tmp 12) none (some (Operand.const (Value.int IntKind.i64 8))) none, type := 26, pos := "law.go:112", after := #[], guard := none }) rfl (by kernel_rfl) (by kernel_rfl) (by kernel_rfl) (fun _ _ _ h => h) (by rfl) (fun w' hk => exec_8_23 rfl rfl) ?_
    simp only [Act.put, List.setIfInBounds_toArray, List.set_cons_zero, List.set_cons_succ]
    refine anyTake (i := 5) (oi := { dst := some 92, op := Op.convert 26 9 (Operand.tmp 91), type := 9, pos := "law.go:112", after := #[{ on := 4, ground := Ground.data }], guard := none }) rfl (by kernel_rfl) (by kernel_rfl) (by kernel_rfl) (fun _ _ _ h => h) (by rfl) (fun w' hk => exec_convert rfl (conv_src ((N22.out.drew.keeps hk id).src8))) ?_
    simp only [Act.put, List.setIfInBounds_toArray, List.set_cons_zero, List.set_cons_succ]
    refine anyTake (i := 6) (oi := { dst := some 93, op := Op.binOp BinOp.eql 9 (Operand.tmp 90) (Operand.tmp 92) 9, type := 4, pos := "law.go:112", after := #[{ on := 3, ground := Ground.data }, { on := 5, ground := Ground.data }], guard := none }) (v := .bool false) rfl (by kernel_rfl) (by kernel_rfl) (by kernel_rfl) (fun _ _ _ h => h) (by rfl) (fun w' hk => by go_simp) ?_
    simp only [Act.put, List.setIfInBounds_toArray, List.set_cons_zero, List.set_cons_succ]
    refine anyTakeE (i := 7) (oi := { dst := some 94, op := Op.binOp BinOp.neq 4 (Operand.tmp 88) (Operand.tmp 93) 4, type := 4, pos := "law.go:112", after := #[{ on := 1, ground := Ground.data }, { on := 6, ground := Ground.data }], guard := none }) rfl (by kernel_rfl) (by kernel_rfl) (by kernel_rfl) (fun _ _ _ _ h => h) (by rfl) ?_
    apply Exists.intro
    refine ⟨fun w' hk => ?_, ?_⟩
    · go_simp <;> with_reducible rfl
    simp only [Act.put, List.setIfInBounds_toArray, List.set_cons_zero, List.set_cons_succ]
    refine anyTakeE (i := 8) (oi := { dst := some 95, op := Op.move (Operand.tmp 94), type := 4, pos := "law.go:112", after := #[{ on := 7, ground := Ground.data }], guard := none }) rfl (by kernel_rfl) (by kernel_rfl) (by kernel_rfl) (fun _ _ _ _ h => h) (by rfl) ?_
    apply Exists.intro
    refine ⟨fun w' hk => ?_, ?_⟩
    · go_simp <;> with_reducible rfl
    simp only [Act.put, List.setIfInBounds_toArray, List.set_cons_zero, List.set_cons_succ]
    refine anyTakeE (i := 9) (oi := { dst := some 96, op := Op.move (Operand.tmp 22), type := 27, pos := "law.go:112", after := #[{ on := 8, ground := Ground.guard }], guard := some (8, false) }) rfl (by kernel_rfl) (by kernel_rfl) (by kernel_rfl) (fun _ _ _ _ h => h) (by rfl) ?_
    apply Exists.intro
    refine ⟨fun w' hk => ?_, ?_⟩
    · go_simp <;> with_reducible rfl
    simp only [Act.put, List.setIfInBounds_toArray, List.set_cons_zero, List.set_cons_succ]
    refine anyTakeE (i := 10) (oi := { dst := some 97, op := Op.binOp BinOp.neq 27 (Operand.tmp 96) (Operand.const (Value.int IntKind.i64 0)) 27, type := 4, pos := "law.go:112", after := #[{ on := 9, ground := Ground.data }, { on := 8, ground := Ground.guard }], guard := some (8, false) }) rfl (by kernel_rfl) (by kernel_rfl) (by kernel_rfl) (fun _ _ _ _ h => h) (by rfl) ?_
    apply Exists.intro
    refine ⟨fun w' hk => ?_, ?_⟩
    · go_simp <;> with_reducible rfl
    simp only [Act.put, List.setIfInBounds_toArray, List.set_cons_zero, List.set_cons_succ]
    refine anyTakeE (i := 11) (oi := { dst := some 98, op := Op.move (Operand.tmp 97), type := 4, pos := "law.go:112", after := #[{ on := 10, ground := Ground.data }, { on := 8, ground := Ground.chain }, { on := 8, ground := Ground.guard }], guard := some (8, false) }) rfl (by kernel_rfl) (by kernel_rfl) (by kernel_rfl) (fun _ _ _ _ h => h) (by rfl) ?_
    apply Exists.intro
    refine ⟨fun w' hk => ?_, ?_⟩
    · go_simp <;> with_reducible rfl
    simp only [Act.put, List.setIfInBounds_toArray, List.set_cons_zero, List.set_cons_succ]
    refine anyTakeE (i := 12) (oi := { dst := some 99, op := Op.move (Operand.tmp 22), type := 27, pos := "law.go:112", after := #[{ on := 11, ground := Ground.guard }], guard := some (11, true) }) rfl (by kernel_rfl) (by kernel_rfl) (by kernel_rfl) (fun _ _ _ _ h => h) (by rfl) ?_
    apply Exists.intro
    refine ⟨fun w' hk => ?_, ?_⟩
    · go_simp <;> with_reducible rfl
    simp only [Act.put, List.setIfInBounds_toArray, List.set_cons_zero, List.set_cons_succ]
    refine anyTakeE (i := 13) (oi := { dst := some 100, op := Op.binOp BinOp.neq 27 (Operand.tmp 99) (Operand.const (Value.int IntKind.i64 4)) 27, type := 4, pos := "law.go:112", after := #[{ on := 12, ground := Ground.data }, { on := 11, ground := Ground.guard }], guard := some (11, true) }) rfl (by kernel_rfl) (by kernel_rfl) (by kernel_rfl) (fun _ _ _ _ h => h) (by rfl) ?_
    apply Exists.intro
    refine ⟨fun w' hk => ?_, ?_⟩
    · go_simp <;> with_reducible rfl
    simp only [Act.put, List.setIfInBounds_toArray, List.set_cons_zero, List.set_cons_succ]
    refine anyTakeE (i := 14) (oi := { dst := some 101, op := Op.pick (Operand.tmp 98) (Operand.tmp 100) (Operand.const (Value.bool false)), type := 4, pos := "law.go:112", after := #[{ on := 11, ground := Ground.data }, { on := 13, ground := Ground.data }, { on := 8, ground := Ground.guard }], guard := some (8, false) }) rfl (by kernel_rfl) (by kernel_rfl) (by kernel_rfl) (fun _ _ _ _ h => h) (by rfl) ?_
    apply Exists.intro
    refine ⟨fun w' hk => ?_, ?_⟩
    · go_simp <;> with_reducible rfl
    simp only [Act.put, List.setIfInBounds_toArray, List.set_cons_zero, List.set_cons_succ]
    refine anyTakeE (i := 15) (oi := { dst := some 102, op := Op.pick (Operand.tmp 95) (Operand.const (Value.bool true)) (Operand.tmp 101), type := 4, pos := "law.go:112", after := #[{ on := 8, ground := Ground.data }, { on := 14, ground := Ground.data }], guard := none }) rfl (by kernel_rfl) (by kernel_rfl) (by kernel_rfl) (fun _ _ _ _ h => h) (by rfl) ?_
    apply Exists.intro
    refine ⟨fun w' hk => ?_, ?_⟩
    · go_simp <;> with_reducible rfl
    simp only [Act.put, List.setIfInBounds_toArray, List.set_cons_zero, List.set_cons_succ]
    refine anyDone (by kernel_rfl) ?_ _
    clear hq8
    have H23 := Lib.hid (show Bd w w22.drew w.heap.size g6 g7 k9 A d9.length c d9 ch dh from H22.out.below (below_drewN' (Below.refl _ w22) 1))
    have HS23 := Lib.hid (show Src w22.drew (· < w22.drew.heap.size) A6 L.length (bcs L) from HS22.out.drewN 1)
    clear H22 HS22 N22 O22
    go_wp2_with fail
    change Calls _ _ _ w22.drew _
    generalize w22.drew = w23 at *
    refine (own_any w23 (· < w23.heap.size) A6 L.length c6 L HS23.out (fun b hb => hb) (by omega)).mono ?_
    rintro e24 w24 ⟨v24, rfl, ho24, hb24⟩
    obtain ⟨g, cap, cur, rfl, hgb, hgr, hgc, hgm, hgs, hgt⟩ := own_row ho24 (by omega)
    have H24 := Lib.hid (H23.out.below hb24)
    have HGW := Lib.hid (fun (g : Nat) (hg : w23.heap.size ≤ g) => (⟨Nat.le_trans H23.out.B.size hg, by have := H23.out.C.lt; omega, by have := H23.out.D.lt; omega, by have := H23.out.R.lt; omega⟩ : w.heap.size ≤ g ∧ g ≠ g6 ∧ g ≠ g7 ∧ g ≠ w.heap.size))
    clear ho24 hb24 H23 HS23
    go_wp2_with fail
    refine (pick_any at_ L.length hat (by omega) (by omega) w24).mono ?_
    rintro e25 w25 ⟨⟨j, hj, rfl⟩, rfl⟩
    have hji : (j : Int) < (L.length : Int) := by omega
    have hx := u8_xor_nat (L[j]).toNat y.toNat (L[j]).toNat_lt y.toNat_lt
    rw [← UInt8.toNat_xor] at hx
    have hcj : w25.cell? ⟨g, j, none⟩ = some (.int .u8 ((L[j]).toNat : Int)) := by
      have h1 := (row_src hgr (by omega) hgt).cells (b := g) (o := 0) j (bc L[j]) (by rw [bcs_get, List.getElem?_eq_getElem hj]; rfl)
      rw [addr_add, Nat.zero_add] at h1
      exact h1
    have HXP := Lib.hid (fun h : L[j] ^^^ y = L.getD j 0 => xor_self (a := L[j]) (y := y) (by rw [h, List.getD_eq_getElem?_getD, List.getElem?_eq_getElem hj]; rfl))
    have HX0 : Hid (y = 0 → L.set j (L[j] ^^^ y) = L) := Lib.hid fun h => by subst h; simp
    have HGR := Lib.hid hgr
    have HGT := Lib.hid hgt
    generalize hxx : L[j] ^^^ y = xx at *
    have hgw : w.heap.size ≤ g ∧ g ≠ g6 ∧ g ≠ g7 ∧ g ≠ w.heap.size := HGW.out g hgb
    clear hxx hgr hgt hat HGW
    have hxu : (xx.toNat : Int) ≤ 255 := by have := xx.toNat_lt; omega
    have hfz := frozen_of_row w25 g j _ _ HGR.out
    have H26 := Lib.hid (H24.out.stored (setCell_grown w25 g j (.int .u8 (xx.toNat : Int))) hgw)
    have T26 := Lib.hid (row_src (setCell_row5 HGR.out j (.int .u8 (xx.toNat : Int))) (m := L.length) (l := L.set j xx) (by simp; omega) (set_row xx hj HGT.out))
    go_wp2_with (first | ((with_reducible show wpList _ _ _ (⟨_, .load 23 (.tmp 6), _, _, _, _⟩ :: _) _ _); refine wpList_exec rfl _ (exec_dig rfl rfl H26.out.C) ?_))
    clear hfz
    generalize w25.setCell ⟨g, j, none⟩ (.int .u8 (xx.toNat : Int)) = w26 at *
    clear H24 HGR HGT hcj
    have HTL : Hid ((L.set j xx).length = L.length) := Lib.hid (by simp)
    have HTX : Hid (readE ch (L.set j xx) = 0 → readK (L.set j xx) = k9 → readD (L.set j xx) = d9 → y = 0) := Lib.hid fun a b c => HXP.out (HPRE.out j _ xx rfl hj a b c)
    clear HXP hx hji
    generalize L.set j xx = T at *
    refine (read_some w26 (· < w26.heap.size) ch hch (some ⟨g, 0, none⟩) L.length cap T T26.out (fun b hb => hb) ⟨hgc, hgm⟩ (by omega)).mono ?_
    rintro e27 w27 ⟨k27, A27, d27, ch27, c27, sz27, rfl, hl27, hs27, h27a, h27b, hb27, hd27, hz27⟩
    have HCH27 := Lib.hid hl27
    have H27 := Lib.hid (H26.out.below hb27)
    have T27 := Lib.hid (T26.out.below hb27 (S' := (· < w27.heap.size)) (fun b hb => Nat.lt_of_lt_of_le hb hb27.size))
    have SD27 := Lib.hid (hs27.weak (S' := (· < w27.heap.size)) (fun b hb => hb.2))
    have HM27 := Lib.hid (And.intro h27a h27b)
    clear hl27 hs27 h27a h27b hb27 H26 T26
    unfold vR
    by_cases hy : y = 0
    · have hT := HX0.out hy
      rw [show readE ch T = 0 from by rw [hT]; exact HRE0.out]
      subst hy
      clear HX0 HTX hz27
      go_wp2_with (first | ((with_reducible show wpList _ _ _ (⟨some 25, .alloc 31, _, _, _, _⟩ :: _) _ _); refine wpList_alloc_row rfl 31 rfl zR zero31 ?_; intro w28 hh28 hz28 hg28; have HA28 := Lib.hid (RAt.mk (k := 0) (A := none) (n := 0) (c := 0) hh28); have HB28 := Lib.hid (below_of_grownBy hg28); have HZ28 := Lib.hid hz28; clear hh28 hz28 hg28) | ((with_reducible show wpList _ _ _ (⟨some 26, .alloc 23, _, _, _, _⟩ :: _) _ _); refine wpList_alloc_row rfl 23 rfl (.agg (zbs 32)) zero23 ?_; intro w29 hh29 hz29 hg29; have HA29 := Lib.hid (DAt.mk (ch := List.replicate 32 0) hh29 (by simp)); have HB29 := Lib.hid (below_of_grownBy hg29); have HZ29 := Lib.hid hz29; clear hh29 hz29 hg29) | ((with_reducible show wpList _ _ _ (⟨none, .store 31 (.tmp 25) (.tmp 122), _, _, _, _⟩ :: _) _ _); refine wpList_store_all rfl 31 (.tmp 25) (.tmp 122) rfl w27.heap.size rfl #[.int .u8 (k27.toNat : Int), .slice A27 d27.length c27] rfl 31 _ (HA28.out.below HB29.out (by have := HZ28.out; omega)).row (by rw [size31]; rfl) rfl (by intro u hu; simp at hu; rcases hu with rfl | rfl <;> rfl) ?_; intro w30 hh30 hg30 hz30; have HR30 := Lib.hid (RAt.mk hh30); have HG30 := Lib.hid hg30; clear hh30 hz30 hg30) | ((with_reducible show wpList _ _ _ (⟨none, .store 23 (.tmp 26) (.tmp 124), _, _, _, _⟩ :: _) _ _); refine wpList_store_all rfl 23 (.tmp 26) (.tmp 124) rfl w28.heap.size rfl (bcs ch27).toArray rfl 23 _ (HA29.out.grown HG30.out (fun r e => by injection e with e; have := HZ28.out; omega)).row (by rw [size23]; simp [bcs_len, HCH27.out]) (by simp [bcs_len, HCH27.out]) (by simpa using bcs_one _) ?_; intro w31 hh31 hg31 hz31; have HD31 := Lib.hid (DAt.mk hh31 HCH27.out); have HG31 := Lib.hid hg31; clear hh31 hz31 hg31; have P31 := Lib.hid (pack4 HB28.out HZ28.out HB29.out HR30.out HG30.out HD31.out HG31.out); have H31 := Lib.hid (H27.out.below P31.out.1); have T31 := Lib.hid (T27.out.below P31.out.1 (S' := (· < w31.heap.size)) (fun b hb => Nat.lt_of_lt_of_le hb P31.out.1.size)); have SD31 := Lib.hid (SD27.out.below P31.out.1 (S' := (· < w31.heap.size)) (fun b hb => Nat.lt_of_lt_of_le hb P31.out.1.size)); have R31 := Lib.hid P31.out.2.1; clear HA28 HB28 HA29 HB29 HR30 HG30 HD31 HG31 HZ28 HZ29 P31))
      go_ret
      exact ⟨rfl, H31.out.B⟩
    have hy0 : (((y.toNat : Int) == 0) = false) := by rw [u8_zero]; simp; exact fun e => hy (UInt8.toNat_inj.1 (by simpa using e))
    by_cases he : readE ch T = 0
    rotate_left
    · clear HX0 HTX hz27 hy
      generalize readE ch T = er at *
      have he' : (((er : Int) == 0) = false) := by simp; omega
      have hy1 : ¬ ((y.toNat : Int) = 0) := by simpa using hy0
      have hy2 : ((y.toNat : Int) != 0) = true := by simpa using hy0
      go_wp2_with (first | ((with_reducible show wpList _ _ _ (⟨some 25, .alloc 31, _, _, _, _⟩ :: _) _ _); refine wpList_alloc_row rfl 31 rfl zR zero31 ?_; intro w28 hh28 hz28 hg28; have HA28 := Lib.hid (RAt.mk (k := 0) (A := none) (n := 0) (c := 0) hh28); have HB28 := Lib.hid (below_of_grownBy hg28); have HZ28 := Lib.hid hz28; clear hh28 hz28 hg28) | ((with_reducible show wpList _ _ _ (⟨some 26, .alloc 23, _, _, _, _⟩ :: _) _ _); refine wpList_alloc_row rfl 23 rfl (.agg (zbs 32)) zero23 ?_; intro w29 hh29 hz29 hg29; have HA29 := Lib.hid (DAt.mk (ch := List.replicate 32 0) hh29 (by simp)); have HB29 := Lib.hid (below_of_grownBy hg29); have HZ29 := Lib.hid hz29; clear hh29 hz29 hg29) | ((with_reducible show wpList _ _ _ (⟨none, .store 31 (.tmp 25) (.tmp 122), _, _, _, _⟩ :: _) _ _); refine wpList_store_all rfl 31 (.tmp 25) (.tmp 122) rfl w27.heap.size rfl #[.int .u8 (k27.toNat : Int), .slice A27 d27.length c27] rfl 31 _ (HA28.out.below HB29.out (by have := HZ28.out; omega)).row (by rw [size31]; rfl) rfl (by intro u hu; simp at hu; rcases hu with rfl | rfl <;> rfl) ?_; intro w30 hh30 hg30 hz30; have HR30 := Lib.hid (RAt.mk hh30); have HG30 := Lib.hid hg30; clear hh30 hz30 hg30) | ((with_reducible show wpList _ _ _ (⟨none, .store 23 (.tmp 26) (.tmp 124), _, _, _, _⟩ :: _) _ _); refine wpList_store_all rfl 23 (.tmp 26) (.tmp 124) rfl w28.heap.size rfl (bcs ch27).toArray rfl 23 _ (HA29.out.grown HG30.out (fun r e => by injection e with e; have := HZ28.out; omega)).row (by rw [size23]; simp [bcs_len, HCH27.out]) (by simp [bcs_len, HCH27.out]) (by simpa using bcs_one _) ?_; intro w31 hh31 hg31 hz31; have HD31 := Lib.hid (DAt.mk hh31 HCH27.out); have HG31 := Lib.hid hg31; clear hh31 hz31 hg31; have P31 := Lib.hid (pack4 HB28.out HZ28.out HB29.out HR30.out HG30.out HD31.out HG31.out); have H31 := Lib.hid (H27.out.below P31.out.1); have T31 := Lib.hid (T27.out.below P31.out.1 (S' := (· < w31.heap.size)) (fun b hb => Nat.lt_of_lt_of_le hb P31.out.1.size)); have SD31 := Lib.hid (SD27.out.below P31.out.1 (S' := (· < w31.heap.size)) (fun b hb => Nat.lt_of_lt_of_le hb P31.out.1.size)); have R31 := Lib.hid P31.out.2.1; clear HA28 HB28 HA29 HB29 HR30 HG30 HD31 HG31 HZ28 HZ29 P31))
      go_ret
      exact ⟨rfl, H31.out.B⟩
    obtain ⟨rfl, rfl, rfl, rfl⟩ := hz27 he
    rw [he]
    clear HX0 hz27
    go_wp2_with (first | ((with_reducible show wpList _ _ _ (⟨some 25, .alloc 31, _, _, _, _⟩ :: _) _ _); refine wpList_alloc_row rfl 31 rfl zR zero31 ?_; intro w28 hh28 hz28 hg28; have HA28 := Lib.hid (RAt.mk (k := 0) (A := none) (n := 0) (c := 0) hh28); have HB28 := Lib.hid (below_of_grownBy hg28); have HZ28 := Lib.hid hz28; clear hh28 hz28 hg28) | ((with_reducible show wpList _ _ _ (⟨some 26, .alloc 23, _, _, _, _⟩ :: _) _ _); refine wpList_alloc_row rfl 23 rfl (.agg (zbs 32)) zero23 ?_; intro w29 hh29 hz29 hg29; have HA29 := Lib.hid (DAt.mk (ch := List.replicate 32 0) hh29 (by simp)); have HB29 := Lib.hid (below_of_grownBy hg29); have HZ29 := Lib.hid hz29; clear hh29 hz29 hg29) | ((with_reducible show wpList _ _ _ (⟨none, .store 31 (.tmp 25) (.tmp 122), _, _, _, _⟩ :: _) _ _); refine wpList_store_all rfl 31 (.tmp 25) (.tmp 122) rfl w27.heap.size rfl #[.int .u8 ((readK T).toNat : Int), .slice A27 (readD T).length c27] rfl 31 _ (HA28.out.below HB29.out (by have := HZ28.out; omega)).row (by rw [size31]; rfl) rfl (by intro u hu; simp at hu; rcases hu with rfl | rfl <;> rfl) ?_; intro w30 hh30 hg30 hz30; have HR30 := Lib.hid (RAt.mk hh30); have HG30 := Lib.hid hg30; clear hh30 hz30 hg30) | ((with_reducible show wpList _ _ _ (⟨none, .store 23 (.tmp 26) (.tmp 124), _, _, _, _⟩ :: _) _ _); refine wpList_store_all rfl 23 (.tmp 26) (.tmp 124) rfl w28.heap.size rfl (bcs (nextL ch (readK T) (readD T))).toArray rfl 23 _ (HA29.out.grown HG30.out (fun r e => by injection e with e; have := HZ28.out; omega)).row (by rw [size23]; simp [bcs_len, HCH27.out]) (by simp [bcs_len, HCH27.out]) (by simpa using bcs_one _) ?_; intro w31 hh31 hg31 hz31; have HD31 := Lib.hid (DAt.mk hh31 HCH27.out); have HG31 := Lib.hid hg31; clear hh31 hz31 hg31; have P31 := Lib.hid (pack4 HB28.out HZ28.out HB29.out HR30.out HG30.out HD31.out HG31.out); have H31 := Lib.hid (H27.out.below P31.out.1); have T31 := Lib.hid (T27.out.below P31.out.1 (S' := (· < w31.heap.size)) (fun b hb => Nat.lt_of_lt_of_le hb P31.out.1.size)); have SD31 := Lib.hid (SD27.out.below P31.out.1 (S' := (· < w31.heap.size)) (fun b hb => Nat.lt_of_lt_of_le hb P31.out.1.size)); have R31 := Lib.hid P31.out.2.1; clear HA28 HB28 HA29 HB29 HR30 HG30 HD31 HG31 HZ28 HZ29 P31) | ((with_reducible show wpList _ _ _ (⟨_, .load 23 (.tmp 6), _, _, _, _⟩ :: _) _ _); refine wpList_exec rfl _ (exec_dig rfl rfl H31.out.C) ?_) | ((with_reducible show wpList _ _ _ (⟨_, .load 31 (.tmp 25), _, _, _, _⟩ :: _) _ _); refine wpList_exec rfl _ (exec_rec rfl rfl R31.out) ?_))
    clear H27 T27 SD27
    generalize w27.heap.size = g25 at *
    generalize w28.heap.size = g26 at *
    obtain ⟨k1, k2, k3⟩ := readE_ok he
    have HK2 := Lib.hid k2
    have hszt : sizeR (readD T).length ≤ L.length := by rw [HTL.out] at k3; exact k3
    have HSZC : Hid (sizeR (readD T).length ≤ cap) := Lib.hid (Nat.le_trans hszt hgc)
    have HNE : Hid (((readK T == k9) && (readD T == d9)) = false) := Lib.hid (by
      cases h1 : (readK T == k9) with
      | false => rfl
      | true => cases h2 : (readD T == d9) with
        | false => rfl
        | true => exact absurd (HTX.out he (by simpa using h1) (by simpa using h2)) hy)
    refine (bytes_any w31 (· < w31.heap.size) ch hch (readK T) A27 (readD T).length c27 (readD T) SD31.out (fun b hb => hb) HM27.out (by omega)).mono ?_
    rintro e32 w32 ⟨h32, -, hb32⟩
    obtain ⟨v32, rfl, ho32⟩ := h32 k1
    clear h32
    obtain ⟨A32, c32, rfl, hl32, hm32, hs32⟩ := ho32.src
    have H32 := Lib.hid (H31.out.below hb32)
    have T32 := Lib.hid (T31.out.below hb32 (S' := (· < w32.heap.size)) (fun b hb => Nat.lt_of_lt_of_le hb hb32.size))
    have SD32 := Lib.hid (SD31.out.below hb32 (S' := (· < w32.heap.size)) (fun b hb => Nat.lt_of_lt_of_le hb hb32.size))
    have R32 := Lib.hid (R31.out.below hb32 R31.out.lt)
    have S32 := Lib.hid (hs32.weak (S' := (· < w32.heap.size)) (fun b hb => hb.2))
    clear hl32 hm32 hs32 ho32 hb32 H31 T31 SD31 R31
    go_wp2_with (first | ((with_reducible show wpList _ _ _ (⟨some 29, .alloc 23, _, _, _, _⟩ :: _) _ _); refine wpList_alloc_row rfl 23 rfl (.agg (zbs 32)) zero23 ?_; intro w33 hh33 hz33 hg33; have HA33 := Lib.hid (DAt.mk (ch := List.replicate 32 0) hh33 (by simp)); have HB33 := Lib.hid (below_of_grownBy hg33); have HZ33 := Lib.hid hz33; clear hh33 hz33 hg33) | ((with_reducible show wpList _ _ _ (⟨none, .store 23 (.tmp 29) (.tmp 143), _, _, _, _⟩ :: _) _ _); refine wpList_store_all rfl 23 (.tmp 29) (.tmp 143) rfl w32.heap.size rfl (bcs (nextL ch (readK T) (readD T))).toArray rfl 23 _ HA33.out.row (by rw [size23]; simp [bcs_len, HCH27.out]) (by simp [bcs_len, HCH27.out]) (by simpa using bcs_one _) ?_; intro w34 hh34 hg34 hz34; have HD34 := Lib.hid (DAt.mk hh34 HCH27.out); have HG34 := Lib.hid hg34; clear hh34 hz34 hg34; have P34 := Lib.hid (pack2 HB33.out HD34.out HG34.out); have H34 := Lib.hid (H32.out.below P34.out.1); have T34 := Lib.hid (T32.out.below P34.out.1 (S' := (· < w34.heap.size)) (fun b hb => Nat.lt_of_lt_of_le hb P34.out.1.size)); have S34 := Lib.hid (S32.out.below P34.out.1 (S' := (· < w34.heap.size)) (fun b hb => Nat.lt_of_lt_of_le hb P34.out.1.size)); have SD34 := Lib.hid (SD32.out.below P34.out.1 (S' := (· < w34.heap.size)) (fun b hb => Nat.lt_of_lt_of_le hb P34.out.1.size)); have R34 := Lib.hid (R32.out.below P34.out.1 R32.out.lt); clear HA33 HB33 HZ33 HD34 HG34 P34))
    clear H32 T32 SD32 R32 S32
    have T35 : Hid (Src w34.drew (· < w34.drew.heap.size) (some ⟨g, 0, none⟩) (sizeR (readD T).length) (bcs (recB ch (readK T) (readD T)))) := Lib.hid (by
      have e1 := (T34.out.take_ _ hszt)
      rw [← bcs_takeD, HK2.out] at e1
      exact e1.drewN 1)
    have S35 := Lib.hid (show Src w34.drew (· < w34.drew.heap.size) A32 (recB ch (readK T) (readD T)).length (bcs (recB ch (readK T) (readD T))) from S34.out.drewN 1)
    have H35 := Lib.hid (show Bd w w34.drew w.heap.size g6 g7 k9 A d9.length c d9 ch dh from H34.out.below (below_drewN' (Below.refl _ w34) 1))
    have SD35 := Lib.hid (show Src w34.drew (· < w34.drew.heap.size) A27 (readD T).length (bcs (readD T)) from SD34.out.drewN 1)
    have R35 := Lib.hid R34.out.drew
    clear T34 S34 H34 SD34 R34
    refine anyStart (fun _ => False) (by kernel_rfl) ?_
    change wpAnyR _ _ _ _ _ _ _ _ w34.drew
    generalize w34.drew = w42 at *
    refine anyTakeE (i := 0) (oi := { dst := some 145, op := Op.move (Operand.tmp 30), type := 27, pos := "law.go:123", after := #[], guard := none }) rfl (by kernel_rfl) (by kernel_rfl) (by kernel_rfl) (fun _ _ _ _ h => h) (by rfl) ?_
    apply Exists.intro
    refine ⟨fun w' hk => ?_, ?_⟩
    · go_simp <;> with_reducible rfl
    simp only [Act.put, List.setIfInBounds_toArray, List.set_cons_zero, List.set_cons_succ]
    refine anyTakeE (i := 1) (oi := { dst := some 146, op := Op.binOp BinOp.eql 27 (Operand.tmp 145) (Operand.const (Value.int IntKind.i64 0)) 27, type := 4, pos := "law.go:123", after := #[{ on := 0, ground := Ground.data }], guard := none }) rfl (by kernel_rfl) (by kernel_rfl) (by kernel_rfl) (fun _ _ _ _ h => h) (by rfl) ?_
    apply Exists.intro
    refine ⟨fun w' hk => ?_, ?_⟩
    · go_simp <;> with_reducible rfl
    simp only [Act.put, List.setIfInBounds_toArray, List.set_cons_zero, List.set_cons_succ]
    refine anyTakeE (i := 2) (oi := { dst := some 147, op := Op.move (Operand.tmp 146), type := 4, pos := "law.go:123", after := #[{ on := 1, ground := Ground.data }], guard := none }) rfl (by kernel_rfl) (by kernel_rfl) (by kernel_rfl) (fun _ _ _ _ h => h) (by rfl) ?_
    apply Exists.intro
    refine ⟨fun w' hk => ?_, ?_⟩
    · go_simp <;> with_reducible rfl
    simp only [Act.put, List.setIfInBounds_toArray, List.set_cons_zero, List.set_cons_succ]
    refine anyTakeE (i := 3) (oi := { dst := some 148, op := Op.move (Operand.tmp 28), type := 26, pos := "law.go:123", after := #[{ on := 2, ground := Ground.guard }], guard := some (2, true) }) rfl (by kernel_rfl) (by kernel_rfl) (by kernel_rfl) (fun _ _ _ _ h => h) (by rfl) ?_
    apply Exists.intro
    refine ⟨fun w' hk => ?_, ?_⟩
    · go_simp <;> with_reducible rfl
    simp only [Act.put, List.setIfInBounds_toArray, List.set_cons_zero, List.set_cons_succ]
    refine anyTake (i := 4) (oi := { dst := some 149, op := Op.convert 26 9 (Operand.tmp 148), type := 9, pos := "law.go:123", after := #[{ on := 3, ground := Ground.data }, { on := 2, ground := Ground.guard }], guard := some (2, true) }) rfl (by kernel_rfl) (by kernel_rfl) (by kernel_rfl) (fun _ _ _ h => h) (by rfl) (fun w' hk => exec_convert rfl (conv_src (S35.out.keeps hk (fun b hb => ⟨hb, id⟩)))) ?_
    simp only [Act.put, List.setIfInBounds_toArray, List.set_cons_zero, List.set_cons_succ]
    refine anyTakeE (i := 5) (oi := { dst := some 150, op := Op.move (Operand.tmp 23), type := 26, pos := "law.go:123", after := #[{ on := 2, ground := Ground.guard }], guard := some (2, true) }) rfl (by kernel_rfl) (by kernel_rfl) (by kernel_rfl) (fun _ _ _ _ h => h) (by rfl) ?_
    apply Exists.intro
    refine ⟨fun w' hk => ?_, ?_⟩
    · go_simp <;> with_reducible rfl
    simp only [Act.put, List.setIfInBounds_toArray, List.set_cons_zero, List.set_cons_succ]
    refine anyTakeE (i := 6) (oi := { dst := some 151, op := Op.move (Operand.tmp 15), type := 3, pos := "law.go:123", after := #[{ on := 2, ground := Ground.guard }], guard := some (2, true) }) rfl (by kernel_rfl) (by kernel_rfl) (by kernel_rfl) (fun _ _ _ _ h => h) (by rfl) ?_
    apply Exists.intro
    refine ⟨fun w' hk => ?_, ?_⟩
    · go_simp <;> with_reducible rfl
    simp only [Act.put, List.setIfInBounds_toArray, List.set_cons_zero, List.set_cons_succ]
    refine anyTake (i := 7) (oi := { dst := some 152, op := Op.slice 26 (Operand.tmp 150) none (some (Operand.tmp 151)) none, type := 26, pos := "law.go:123", after := #[{ on := 5, ground := Ground.data }, { on := 6, ground := Ground.data }, { on := 2, ground := Ground.guard }], guard := some (2, true) }) rfl (by kernel_rfl) (by kernel_rfl) (by kernel_rfl) (fun _ _ _ h => h) (by rfl) (fun w' hk => exec_sh rfl rfl rfl HSZC.out) ?_
    simp only [Act.put, List.setIfInBounds_toArray, List.set_cons_zero, List.set_cons_succ]
    refine anyTake (i := 8) (oi := { dst := some 153, op := Op.convert 26 9 (Operand.tmp 152), type := 9, pos := "law.go:123", after := #[{ on := 7, ground := Ground.data }, { on := 2, ground := Ground.guard }], guard := some (2, true) }) rfl (by kernel_rfl) (by kernel_rfl) (by kernel_rfl) (fun _ _ _ h => h) (by rfl) (fun w' hk => exec_convert rfl (conv_src (T35.out.keeps hk (fun b hb => ⟨hb, id⟩)))) ?_
    simp only [Act.put, List.setIfInBounds_toArray, List.set_cons_zero, List.set_cons_succ]
    refine anyTake (i := 9) (oi := { dst := some 154, op := Op.binOp BinOp.eql 9 (Operand.tmp 149) (Operand.tmp 153) 9, type := 4, pos := "law.go:123", after := #[{ on := 4, ground := Ground.data }, { on := 8, ground := Ground.data }, { on := 2, ground := Ground.guard }], guard := some (2, true) }) (v := .bool true) rfl (by kernel_rfl) (by kernel_rfl) (by kernel_rfl) (fun _ _ _ h => h) (by rfl) (fun w' hk => by go_simp) ?_
    simp only [Act.put, List.setIfInBounds_toArray, List.set_cons_zero, List.set_cons_succ]
    refine anyTakeE (i := 10) (oi := { dst := some 155, op := Op.pick (Operand.tmp 147) (Operand.tmp 154) (Operand.const (Value.bool false)), type := 4, pos := "law.go:123", after := #[{ on := 2, ground := Ground.data }, { on := 9, ground := Ground.data }], guard := none }) rfl (by kernel_rfl) (by kernel_rfl) (by kernel_rfl) (fun _ _ _ _ h => h) (by rfl) ?_
    apply Exists.intro
    refine ⟨fun w' hk => ?_, ?_⟩
    · go_simp <;> with_reducible rfl
    simp only [Act.put, List.setIfInBounds_toArray, List.set_cons_zero, List.set_cons_succ]
    refine anyTakeE (i := 11) (oi := { dst := some 156, op := Op.move (Operand.tmp 155), type := 4, pos := "law.go:123", after := #[{ on := 10, ground := Ground.data }, { on := 2, ground := Ground.chain }], guard := none }) rfl (by kernel_rfl) (by kernel_rfl) (by kernel_rfl) (fun _ _ _ _ h => h) (by rfl) ?_
    apply Exists.intro
    refine ⟨fun w' hk => ?_, ?_⟩
    · go_simp <;> with_reducible rfl
    simp only [Act.put, List.setIfInBounds_toArray, List.set_cons_zero, List.set_cons_succ]
    refine anyTake (i := 12) (oi := { dst := some 157, op := Op.load 31 (Operand.tmp 25), type := 31, pos := "law.go:123", after := #[{ on := 11, ground := Ground.guard }], guard := some (11, true) }) rfl (by kernel_rfl) (by kernel_rfl) (by kernel_rfl) (fun _ _ _ h => h) (by rfl) (fun w' hk => exec_rec rfl rfl (R35.out.keeps hk id)) ?_
    simp only [Act.put, List.setIfInBounds_toArray, List.set_cons_zero, List.set_cons_succ]
    refine anyTake (i := 13) (oi := { dst := some 158, op := Op.load 31 (Operand.tmp 5), type := 31, pos := "law.go:123", after := #[{ on := 11, ground := Ground.guard }], guard := some (11, true) }) rfl (by kernel_rfl) (by kernel_rfl) (by kernel_rfl) (fun _ _ _ h => h) (by rfl) (fun w' hk => exec_rec rfl rfl (H35.out.R.keeps hk id)) ?_
    simp only [Act.put, List.setIfInBounds_toArray, List.set_cons_zero, List.set_cons_succ]
    refine anyCall (i := 14) (oi := { dst := some 159, op := Op.call { callee := Callee.value (Operand.func 12), args := #[Operand.tmp 157, Operand.tmp 158], argTypes := #[31, 31] }, type := 4, pos := "law.go:123", after := #[{ on := 12, ground := Ground.data }, { on := 13, ground := Ground.data }, { on := 11, ground := Ground.chain }, { on := 11, ground := Ground.guard }], guard := some (11, true) }) rfl (by kernel_rfl) (by rfl) ?_ ((record_any w42 (· < w42.heap.size) (· < w.heap.size) (readK T) k9 A27 A (readD T).length c27 d9.length c (readD T) d9 SD35.out H35.out.S (fun b hb => hb) H35.out.sl).mono ?_)
    · go_simp
    rintro e43 w43 ⟨rfl, hb43⟩
    have H43 := Lib.hid (H35.out.below hb43)
    refine ⟨_, rfl, Keeps.of_below hb43, ?_⟩
    rw [HNE.out]
    simp only [Act.put, List.setIfInBounds_toArray, List.set_cons_zero, List.set_cons_succ]
    refine anyTakeE (i := 15) (oi := { dst := some 160, op := Op.unOp UnOp.not 4 (Operand.tmp 159), type := 4, pos := "law.go:123", after := #[{ on := 14, ground := Ground.data }, { on := 11, ground := Ground.guard }], guard := some (11, true) }) rfl (by kernel_rfl) (by kernel_rfl) (by kernel_rfl) (fun _ _ _ _ h => h) (by rfl) ?_
    apply Exists.intro
    refine ⟨fun w' hk => ?_, ?_⟩
    · go_simp <;> with_reducible rfl
    simp only [Act.put, List.setIfInBounds_toArray, List.set_cons_zero, List.set_cons_succ]
    refine anyTakeE (i := 16) (oi := { dst := some 161, op := Op.pick (Operand.tmp 156) (Operand.tmp 160) (Operand.const (Value.bool false)), type := 4, pos := "law.go:123", after := #[{ on := 11, ground := Ground.data }, { on := 15, ground := Ground.data }], guard := none }) rfl (by kernel_rfl) (by kernel_rfl) (by kernel_rfl) (fun _ _ _ _ h => h) (by rfl) ?_
    apply Exists.intro
    refine ⟨fun w' hk => ?_, ?_⟩
    · go_simp <;> with_reducible rfl
    simp only [Act.put, List.setIfInBounds_toArray, List.set_cons_zero, List.set_cons_succ]
    refine anyTakeE (i := 17) (oi := { dst := some 10, op := Op.assign (Operand.tmp 161), type := 4, pos := "law.go:123", after := #[{ on := 16, ground := Ground.data }, { on := 14, ground := Ground.chain }, { on := 0, ground := Ground.phase }, { on := 1, ground := Ground.phase }, { on := 2, ground := Ground.phase }, { on := 3, ground := Ground.phase }, { on := 4, ground := Ground.phase }, { on := 5, ground := Ground.phase }, { on := 6, ground := Ground.phase }, { on := 7, ground := Ground.phase }, { on := 8, ground := Ground.phase }, { on := 9, ground := Ground.phase }, { on := 10, ground := Ground.phase }, { on := 11, ground := Ground.phase }, { on := 12, ground := Ground.phase }, { on := 13, ground := Ground.phase }, { on := 14, ground := Ground.phase }, { on := 15, ground := Ground.phase }, { on := 16, ground := Ground.phase }], guard := none }) rfl (by kernel_rfl) (by kernel_rfl) (by kernel_rfl) (fun _ _ _ _ h => h) (by rfl) ?_
    apply Exists.intro
    refine ⟨fun w' hk => ?_, ?_⟩
    · go_simp <;> with_reducible rfl
    simp only [Act.put, List.setIfInBounds_toArray, List.set_cons_zero, List.set_cons_succ]
    refine anyDone (by kernel_rfl) ?_ _
    go_wp2
    go_ret
    exact ⟨rfl, H43.out.B⟩
end Go.Proofs.Ytkglicidjdifkaa
