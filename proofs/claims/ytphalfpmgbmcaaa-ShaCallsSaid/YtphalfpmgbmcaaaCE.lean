/- The reference's padding. No statement is proved here. -/
import Derived.Test.YtphalfpmgbmcaaaCB
namespace Go.Proofs.Ytphalfpmgbmcaaa
open Go.RowKit
set_option linter.unusedVariables false
set_option linter.unusedSimpArgs false

theorem zeroCells_bcs (k : Nat) : Builtin.zeroCells (Value.int .u8 0).cells k = (bcs (List.replicate k 0)).toArray := by
  have h := made_zero k
  apply Array.ext
  · simp [size_zeroCells, bcs_len, Value.cells]
  · intro i h1 h2
    simp [Builtin.zeroCells, bcs, bc, Value.cells, Nat.mod_one]
/-- append of zeros. -/
theorem run_appZ (w : World) (B : Nat) (v : Value) (l : List UInt8) (ty : TypeId) (h : OwnB w B v l) (m : Nat) (h0 : 0 < m) (hb : l.length + m ≤ 1099511627776) (hB : B ≤ w.heap.size) :
    ∃ v' w', (Builtin.append_ #[30, 3] ty #[v, .int .i64 m]).run Try.prog w = .ok v' w' ∧ OwnB w' B v' (l ++ List.replicate m 0) ∧ Below B w w' := by
  obtain ⟨i0, hi, hz0, hz1, hz2⟩ := info_parts info5
  obtain ⟨A0, cap, rfl, h1, h2, h3⟩ := h.ex
  have hlen : (l ++ List.replicate m (0 : UInt8)).length = l.length + m := by simp
  by_cases hroom : l.length + m ≤ cap
  · rcases h3 with h3 | ⟨g, off, cur, rfl, hbg, hg, hcs, ht⟩
    · omega
    · have hst := run_storeCells_at Try.prog g (off + l.length) 5 (bcs (List.replicate m 0)) 0 cur w hg (by simp [bcs_len]; omega) (bcs_one _)
      simp only [Nat.add_zero] at hst
      have hadd : (⟨g, off, none⟩ : Addr).add (l.length * i0.size) = ⟨g, off + l.length, none⟩ := by rw [hz1, Nat.mul_one]; unfold Addr.add; split <;> simp_all
      have hNs : (List.take (off + l.length) cur.toList ++ bcs (List.replicate m 0) ++ List.drop (off + l.length + (bcs (List.replicate m 0)).length) cur.toList).toArray.size = off + cap := by
        simp only [List.size_toArray, List.length_append, List.length_take, List.length_drop, Array.length_toList, bcs_len, List.length_replicate]
        omega
      have hNt : ((List.take (off + l.length) cur.toList ++ bcs (List.replicate m 0) ++ List.drop (off + l.length + (bcs (List.replicate m 0)).length) cur.toList).toArray.toList.drop off).take (l ++ List.replicate m 0).length = bcs (l ++ List.replicate m 0) := by
        have hlc : off + l.length ≤ cur.toList.length := by simp; omega
        have hd : (List.take (off + l.length) cur.toList ++ bcs (List.replicate m 0) ++ List.drop (off + l.length + (bcs (List.replicate m 0)).length) cur.toList).drop off = bcs l ++ bcs (List.replicate m 0) ++ List.drop (off + l.length + (bcs (List.replicate m 0)).length) cur.toList := by
          rw [List.append_assoc, List.drop_append_of_le_length (by rw [List.length_take]; omega), List.drop_take, show off + l.length - off = l.length from by omega, ht, List.append_assoc]
        rw [List.toList_toArray, hd, ← bcs_append, List.take_left' (by rw [bcs_len])]
      generalize (List.take (off + l.length) cur.toList ++ bcs (List.replicate m 0) ++ List.drop (off + l.length + (bcs (List.replicate m 0)).length) cur.toList).toArray = N at *
      refine ⟨.slice (some ⟨g, off, none⟩) (l.length + m) cap, w.setRow g N, ?_, ⟨some ⟨g, off, none⟩, cap, by rw [hlen], by rw [hlen]; exact hroom, h2, .inr ⟨g, off, N, rfl, hbg, setRow_heap w g cur _ 5 _ hg, hNs, hNt⟩⟩, (Below.refl _ w).grown (setRow_grown w g _) hB (fun r hr => by injection hr; omega)⟩
      have hw : IntKind.i64.wrap (m : Int) = m := by rw [IntKind.wrap_i64]; omega
      have hneg : ¬ ((m : Int) < 0) := by omega
      have h48i : ¬ (281474976710656 < (m : Int) * (i0.bytes : Int)) := by rw [hz2]; omega
      have hns : ¬ (m * i0.size = 0) := Nat.mul_ne_zero (by omega) (by omega)
      have u3 : Try.prog.underlying 3 = some (.int .i64) := by kernel_rfl
      have hzc := zeroCells_bcs m
      simp [Builtin.append_, run_underlying under30, run_underlying u3, sizeOf, typeInfo, zeroValue, hi, hz0, asInt, asIntOf, hw, hneg, h48i, hns, hroom, hadd, hzc, hst]
  · have hold : (Builtin.firstCells i0.size l.length (.slice A0 l.length cap)).run Try.prog w.drew = .ok (bcs l).toArray w.drew := by
      rcases h3 with h3 | ⟨g, off, cur, rfl, hbg, hg, hcs, ht⟩
      · have hl0 : l = [] := List.eq_nil_of_length_eq_zero (by omega)
        subst hl0
        rcases A0 with _ | a0
        all_goals simp [Builtin.firstCells, loadCells, loadCellsFrom, bcs]
      · exact run_firstCells_some (P := Try.prog) w.drew i0.size l.length ⟨g, off, none⟩ l.length cap (bcs l) (by rw [bcs_len, hz1, Nat.mul_one]) (fun j u hu => by
          have hadd : (⟨g, off, none⟩ : Addr).add j = ⟨g, off + j, none⟩ := by unfold Addr.add; split <;> simp_all
          rw [hadd]
          show w.cell? _ = _
          rw [cell_of_row w g (off + j) cur 5 (0, 0) hg]
          rw [← ht, List.getElem?_take] at hu
          split at hu
          · rw [List.getElem?_drop] at hu
            simpa using hu
          · cases hu)
    have u3 : Try.prog.underlying 3 = some (.int .i64) := by kernel_rfl
    have hr := Lib.run_append_grow_zeros (P := Try.prog) w 30 3 ty 5 i0 (.int .u8 0) .i64 .i64 under30 u3 hi hz0 A0 l.length cap (bcs l) hold m h0 (by omega) (by omega) (by omega) (by rw [hz2]; omega) (growslice_fits (by omega) (by rw [hz2]; omega))
    have hge := grownCap_ge w (l.length + m) cap 5
    have hcm : grownCap w (l.length + m) cap 5 ≤ maxLen := grownCap_le_maxLen w (l.length + m) cap 5 (by unfold maxLen; omega)
    refine ⟨_, _, hr, ?_, ⟨rfl, rfl, rfl, by simp, fun k hk => heap_alloc_old w.drew _ (by show k < w.heap.size; omega)⟩⟩
    generalize grownCap w (l.length + m) cap 5 = G at *
    rw [← hlen]
    rw [← hlen] at hge
    refine OwnB.of_row hB (heap_alloc_new w.drew _) ?_ hge hcm ?_
    · simp only [Array.size_append, List.size_toArray, size_zeroCells, bcs_len, hlen]
      have : (Value.int IntKind.u8 0).cells.size = 1 := rfl
      rw [this]
      omega
    · rw [zeroCells_bcs m]
      simp only [Array.toList_append, List.append_assoc]
      rw [← List.append_assoc, ← bcs_append, List.take_left' (by rw [bcs_len])]
theorem wpList_appZ {ops : Array Oper} {rest : List Oper} {o : Oper} {a : Act} {w : World} {Q : Exit → Act → World → Prop} (hgd : Region.wanted o (yielded ops a.tmps) = true) (s x : Operand) (ho : o.op = .call { callee := .builtin .append, args := #[s, x], argTypes := #[30, 3] })
    (B : Nat) (v : Value) (l : List UInt8) (hv : a.eval s = v) (hown : OwnB w B v l) (m : Nat) (hx : a.eval x = .int .i64 m) (h0 : 0 < m) (hb : l.length + m ≤ 1099511627776) (hB : B ≤ w.heap.size)
    (h : ∀ v' w', OwnB w' B v' (l ++ List.replicate m 0) → Below B w w' → wpList Try.prog ops Q rest (a.put o.dst v') w') : wpList Try.prog ops Q (o :: rest) a w := by
  obtain ⟨v', w', hr, h1, h2⟩ := run_appZ w B v l o.type hown m h0 hb hB
  refine wpList_exec hgd v' (w' := w') ?_ (h v' w' h1 h2)
  unfold execOp
  simp only [ho, resolve, invoke, builtin, Sem.run_bind, Sem.run_pure, Result.andThen_ok, List.map_toArray, List.map_cons, List.map_nil, hv, hx, hr]
theorem zn_stop (n j : Nat) (h : j ≤ zn n) : ((n + 1 + j) % 128 = 112 ↔ j = zn n) := by
  unfold zn at *
  omega
theorem beP_zero : beP 0 8 = List.replicate 8 0 := by decide
theorem padded_parts (l : List UInt8) (h : l.length < 2305843009213693952) : padded l = l ++ 128 :: List.replicate (zn l.length) 0 ++ List.replicate 8 0 ++ beP (l.length * 8) 8 := by
  unfold padded padL
  rw [Nat.div_eq_of_lt h, ← beP_zero]
  simp [tl2]
def sliceLen : Value → Nat
  | .slice _ n _ => n
  | _ => 0
set_option maxRecDepth 100000 in
set_option maxHeartbeats 1000000 in
/-- The reference's Pad. -/
theorem rpad_any (l : List UInt8) (w : World) (S : Nat → Prop) (A : Option Addr) (n c : Nat) (hs : Src w S A n (bcs l)) (hS : ∀ b, S b → b < w.heap.size) (hb : n ≤ 1000000000) :
    Calls Try.prog 20 #[.slice A n c] w (GivesB w (padded l)) := by
  have hl := src_len hs
  subst hl
  have HS : Hid (Src (w.alloc (.cells #[] 5)) S A l.length (bcs l)) := Lib.hid (hs.alloc hS _)
  have HO : Hid (OwnB (w.alloc (.cells #[] 5)) w.heap.size (.slice (some ⟨w.heap.size, 0, none⟩) 0 0) []) := Lib.hid (OwnB.of_nil _)
  have HPP := Lib.hid (padded_parts l (by omega))
  generalize padded l = PP at *
  have hzl := zn_lt l.length
  have HZS := Lib.hid (fun j => zn_stop l.length j)
  generalize zn l.length = z at *
  clear hs
  go_enter Try.func20, Try.ntmps20
  go_wp2_with (first | ((with_reducible show wpList _ _ _ (⟨some 8, .call _, _, _, _, _⟩ :: _) _ _); go_must (refine wpList_appB ?g1 _ _ rfl w.heap.size _ _ rfl HO.out _ _ _ _ l rfl HS.out (by simp; omega) (by simp) ?_; exact rfl; intro v1 w1 ho1 hb1; rw [List.nil_append] at ho1; have HO1 := Lib.hid (ho1.keep (below_alloc w1 (.cells #[.int .u8 128] 5))); have HB1 := Lib.hid (((below_alloc w (.cells #[] 5)).trans hb1).trans ((below_alloc w1 (.cells #[.int .u8 128] 5)).mono (by have := hb1.size; simp at this; omega))); have hsz1 : w.heap.size ≤ w1.heap.size := (by have := hb1.size; simp at this; omega); have HL1 : Hid (Src (w1.alloc (.cells #[.int .u8 128] 5)) (· < w1.heap.size + 1) (some ⟨w1.heap.size, 0, none⟩) 1 (bcs [128])) := Lib.hid (src1 w1 128); clear ho1 hb1)) | ((with_reducible show wpList _ _ _ (⟨some 10, .call _, _, _, _, _⟩ :: _) _ _); go_must (refine wpList_appB ?g2 _ _ rfl w.heap.size _ _ rfl HO1.out _ _ _ _ [128] rfl HL1.out (by omega) (by simp; omega) ?_; exact rfl; intro v2 w2 ho2 hb2; have HO2 := Lib.hid ho2; have HB2 := Lib.hid (HB1.out.trans hb2); clear ho2 hb2 HO1 HB1 HL1)))
  clear HS HO hsz1
  have HO0 : Hid (OwnB w2 w.heap.size v2 (l ++ 128 :: List.replicate 0 0)) := HO2.out
  clear HO2
  have hd0 : True := trivial
  go_loopw [3] (fun p wr => ∃ j : Nat, j ≤ z ∧ OwnB wr w.heap.size p (l ++ 128 :: List.replicate j 0) ∧ Below w.heap.size w wr) (fun p _ => l.length + 1 + z - (sliceLen p))
  case atStart => exact ⟨0, by omega, HO0.out, HB2.out⟩
  case round =>
    obtain ⟨j, hj, ho, hbl⟩ := hrel
    have hql : (l ++ 128 :: List.replicate j (0 : UInt8)).length = l.length + 1 + j := by simp; omega
    obtain ⟨O, hO⟩ : ∃ O, O = l ++ 128 :: List.replicate j (0 : UInt8) := ⟨_, rfl⟩
    rw [← hO] at ho hql
    have HOE := Lib.hid hO
    clear hO
    obtain ⟨A3, c3, e3, h3, h3m, _⟩ := ho.ex
    subst e3
    have HO := Lib.hid ho
    have HB := Lib.hid hbl
    have HQL := Lib.hid hql
    have hst := HZS.out j hj
    have t1 : (O.length : Int).tmod 128 = (((l.length + 1 + j) % 128 : Nat) : Int) := by rw [hql, Int.tmod_eq_emod_of_nonneg (by omega)]; omega
    have hlen2 : O.length ≤ 1000001000 := by omega
    clear ho hbl HO0 HB2 hql
    have hsz : w.heap.size ≤ wr.heap.size := HB.out.size
    by_cases hjz : j = z
    · have hq : (l.length + 1 + j) % 128 = 112 := hst.2 hjz
      rw [hq] at t1
      have HJZ := Lib.hid hjz
      clear hst hq hjz
      go_wp2_with ((with_reducible show wpList _ _ _ (⟨some 19, .call _, _, _, _, _⟩ :: _) _ _); go_must (refine wpList_appZ ?g3 (.tmp 18) (.const (.int .i64 8)) rfl w.heap.size _ _ rfl HO.out 8 rfl (by omega) (by omega) hsz ?_; exact rfl; intro v4 w4 ho4 hb4; have HO4 := Lib.hid ho4; have HB4 := Lib.hid (HB.out.trans hb4); clear ho4 hb4))
      have HO5 : Hid (OwnB w4 w.heap.size v4 (O ++ List.replicate 8 0 ++ beP (l.length * 8) 0)) := Lib.hid (by simpa [beP] using HO4.out)
      have HFIN : Hid (PP = O ++ List.replicate 8 0 ++ beP (l.length * 8) 8) := Lib.hid (by rw [HPP.out, HOE.out, HJZ.out])
      have HQ8 : Hid ((O ++ List.replicate 8 (0 : UInt8)).length ≤ 1000002000) := Lib.hid (by simp; omega)
      generalize O ++ List.replicate 8 0 = O2 at *
      clear HO4 HO t1 HOE HPP HQL HZS HB
      have hx8 : ((l.length : Int) * 8) = ((l.length * 8 : Nat) : Int) := by omega
      have hx64 : l.length * 8 < 18446744073709551616 := by omega
      go_wp2_with fail
      rw [hx8]
      generalize l.length * 8 = x at *
      clear hx8
      go_loopw [3, 5] (fun p i wr => ∃ k : Nat, k ≤ 8 ∧ i = .int .i64 (7 - (k : Int)) ∧ OwnB wr w.heap.size p (O2 ++ beP x k) ∧ Below w.heap.size w wr) (fun _ i _ => (intOf i + 1).toNat)
      case atStart => exact ⟨0, by omega, rfl, HO5.out, HB4.out⟩
      case round =>
        obtain ⟨k, hk, rfl, ho, hbl⟩ := hrel
        have H := Lib.hid ho
        have HBW := Lib.hid hbl
        have hszw := hbl.size
        clear ho hbl HO5 HB4
        by_cases hk8 : k < 8
        · have hQ : (O2 ++ beP x k).length ≤ 1000002008 := by have := HQ8.out; rw [List.length_append, beP_len]; omega
          have HS := Lib.hid (beP_succ x k)
          have HV := Lib.hid (byte_of x (56 - 8 * k) _ rfl)
          generalize UInt8.ofNat (x / 2 ^ (56 - 8 * k)) = y at *
          have HA := Lib.hid (H.out.keep (below_alloc wr (.cells #[.int .u8 (y.toNat : Int)] 5)))
          have HSr : Hid (Src (wr.alloc (.cells #[.int .u8 (y.toNat : Int)] 5)) (· < wr.heap.size + 1) (some ⟨wr.heap.size, 0, none⟩) 1 (bcs [y])) := Lib.hid (src1 wr y)
          have hki : (k : Int) ≤ 7 := by omega
          have g1 : (0 : Int) ≤ 7 - (k : Int) := by omega
          have g2 : 8 * (7 - (k : Int)) = ((56 - 8 * k : Nat) : Int) := by omega
          have g3 : 56 - 8 * k ≤ 56 := by omega
          have hv := HV.out
          generalize 56 - 8 * k = sh at *
          have g4 : (sh : Int) ≤ 63 := by omega
          go_wp2_with ((with_reducible show wpList _ _ _ (⟨some 36, .call _, _, _, _, _⟩ :: _) _ _); go_must (refine wpList_appB ?g5 _ _ rfl w.heap.size _ _ rfl HA.out _ _ 1 1 [y] rfl HSr.out (by omega) (by first | omega | (simp; omega)) ?_; exact rfl; intro v' w3 ho3 hb3))
          have HO3 : Hid (OwnB w3 w.heap.size v' (O2 ++ beP x (k + 1))) := Lib.hid (by rw [HS.out, ← List.append_assoc]; exact ho3)
          have HB3 : Hid (Below w.heap.size w w3) := Lib.hid ((HBW.out.trans ((below_alloc wr _).mono hszw)).trans hb3)
          clear ho3 hb3 hv g1 g2 g4
          go_wp2
          go_roundw
          case rel =>
            first | exact ⟨k + 1, by omega, by go_num, HO3.out, HB3.out⟩ | ((repeat apply Exists.intro); exact ⟨⟨k + 1, by omega, by go_num, HO3.out, HB3.out⟩, rfl⟩)
          case measure => simp [intOf]; omega
        · obtain rfl : k = 8 := by omega
          rw [← HFIN.out] at H
          rw [show (7 - ((8 : Nat) : Int)) = -1 from rfl]
          clear hk8 hk
          go_wp2
          go_ret
          exact ⟨_, rfl, H.out, HBW.out⟩
    · have hq : ¬ (l.length + 1 + j) % 128 = 112 := fun h => hjz (hst.1 h)
      have hne : ((((l.length + 1 + j) % 128 : Nat) : Int) != 112) = true := by simp; omega
      have HJ := Lib.hid (show j < z by omega)
      clear hst hjz hq
      generalize (l.length + 1 + j) % 128 = r at *
      have HOA := Lib.hid (HO.out.keep (below_alloc wr (.cells #[.int .u8 0] 5)))
      have HLA : Hid (Src (wr.alloc (.cells #[.int .u8 0] 5)) (· < wr.heap.size + 1) (some ⟨wr.heap.size, 0, none⟩) 1 (bcs [0])) := Lib.hid (src1 wr 0)
      go_wp2_with ((with_reducible show wpList _ _ _ (⟨some 17, .call _, _, _, _, _⟩ :: _) _ _); go_must (refine wpList_appB ?g4 _ _ rfl w.heap.size _ _ rfl HOA.out _ _ _ _ [0] rfl HLA.out (by omega) (by first | omega | (simp; omega)) ?_; exact rfl; intro v4 w4 ho4 hb4; have HO4 : Hid (OwnB w4 w.heap.size v4 (l ++ 128 :: List.replicate (j + 1) 0)) := Lib.hid (by rw [List.replicate_succ', ← List.cons_append, ← List.append_assoc, ← HOE.out]; exact ho4); have HB4 := Lib.hid ((HB.out.trans ((below_alloc wr _).mono hsz)).trans hb4); clear ho4 hb4))
      obtain ⟨A4, c4, e4, h4, _⟩ := HO4.out.ex
      have HOL : Hid ((l ++ 128 :: List.replicate (j + 1) (0 : UInt8)).length = l.length + 1 + (j + 1)) := Lib.hid (by simp; omega)
      subst e4
      refine ⟨⟨j + 1, by have := HJ.out; omega, HO4.out, HB4.out⟩, ?_⟩
      show l.length + 1 + z - (l ++ 128 :: List.replicate (j + 1) (0 : UInt8)).length < l.length + 1 + z - O.length
      have := HQL.out
      have := HJ.out
      have := HOL.out
      omega
end Go.Proofs.Ytphalfpmgbmcaaa
