/- Padding. No statement is proved here. -/
import Derived.Test.YtkglicidjdifkaaSG

namespace Go.Proofs.Ytkglicidjdifkaa
open Go.RowKit
set_option linter.unusedVariables false

theorem made_zero (n : Nat) : madeCells (Value.int .u8 0).cells n = zbs n := by
  apply Array.ext
  · simp [madeCells, zbs, bcs]
  · intro i h1 h2
    simp [madeCells, zbs, bcs, bc, Value.cells, Nat.mod_one]
section
variable {ops : Array Oper} {rest : List Oper} {o : Oper} {a : Act} {w : World} {Q : Exit → Act → World → Prop}
/-- A slice of bytes is made. -/
theorem wpList_makeB (hgd : Region.wanted o (yielded ops a.tmps) = true) (x y : Operand) (ho : o.op = .makeSlice 26 x y) (kl kc : IntKind) (n c : Nat) (hx : a.eval x = .int kl (n : Int)) (hy : a.eval y = .int kc (c : Int)) (hn : n ≤ c) (hc : c ≤ 1099511627776)
    (h : ∀ w', w'.heap[w.heap.size]? = some (.cells (zbs c) 5 (0, 0)) → w'.heap.size = w.heap.size + 1 → w.grownBy w' none → wpList Try.prog ops Q rest (a.put o.dst (.slice (some ⟨w.heap.size, 0, none⟩) n c)) w') :
    wpList Try.prog ops Q (o :: rest) a w := by
  obtain ⟨i0, hi, hz0, hz1, hz2⟩ := info_parts info5
  have hr := run_make (P := Try.prog) w 26 5 i0 (.int .u8 0) under26 hi hz0 kl kc n c (by omega) (by omega) (by rw [hz2]; omega) (by omega)
  refine wpList_exec hgd _ (w' := w.alloc (.cells (zbs c) 5)) ?_ (h _ (heap_alloc_new w _) (by simp) (World.grownBy_alloc w _ none))
  unfold execOp
  simp only [ho, hx, hy, Sem.run_bind, Sem.run_pure, Result.andThen_ok, hr]
  simp [hz1, made_zero]
/-- append. -/
theorem wpList_appB (hgd : Region.wanted o (yielded ops a.tmps) = true) (s x : Operand) (ho : o.op = .call { callee := .builtin .append, args := #[s, x], argTypes := #[26, 26] })
    (B : Nat) (v : Value) (l : List UInt8) (hv : a.eval s = v) (hown : OwnB w B v l) (S : Nat → Prop) (A : Option Addr) (m c : Nat) (ys : List UInt8) (hx : a.eval x = .slice A m c) (hs : Src w S A m (bcs ys))
    (hb : l.length + m ≤ 1099511627776) (hB : B ≤ w.heap.size)
    (h : ∀ v' w', OwnB w' B v' (l ++ ys) → Below B w w' → wpList Try.prog ops Q rest (a.put o.dst v') w') : wpList Try.prog ops Q (o :: rest) a w := by
  obtain ⟨v', w', hr, h1, h2⟩ := run_appB w B v l o.type hown S A m c ys hs hb hB
  refine wpList_exec hgd v' (w' := w') ?_ (h v' w' h1 h2)
  unfold execOp
  simp only [ho, resolve, invoke, builtin, Sem.run_bind, Sem.run_pure, Result.andThen_ok, List.map_toArray, List.map_cons, List.map_nil, hv, hx, hr]
end
theorem src1 (w : World) (b : UInt8) : Src (w.alloc (.cells #[.int .u8 (b.toNat : Int)] 5)) (· < w.heap.size + 1) (some ⟨w.heap.size, 0, none⟩) 1 (bcs [b]) := Src.lit1 w _ 5

/-- How many zero bytes stand behind n bytes and the 128. -/
def zn (n : Nat) : Nat := (239 - n % 128) % 128
def beP (x n : Nat) : List UInt8 := (List.range n).map fun i => UInt8.ofNat (x / 2 ^ (56 - 8 * i))
theorem beP_len (x n : Nat) : (beP x n).length = n := by simp [beP]
theorem beP_succ (x n : Nat) : beP x (n + 1) = beP x n ++ [UInt8.ofNat (x / 2 ^ (56 - 8 * n))] := by simp [beP, List.range_succ]
def tl2 (a b j : Nat) : List UInt8 := (([a, b].take j).map (fun x => beP x 8)).flatten
theorem tl2_succ (a b j : Nat) (hj : j < 2) : tl2 a b (j + 1) = tl2 a b j ++ beP ([a, b].getD j 0) 8 := by
  match j, hj with
  | 0, _ => simp [tl2]
  | 1, _ => simp [tl2]
/-- What follows n bytes. -/
def padL (n : Nat) : List UInt8 := 128 :: List.replicate (zn n) 0 ++ tl2 (n / 2305843009213693952) (n * 8) 2
theorem zn_int (n : Nat) (h : n < 18446744073709551616) : (IntKind.u64.wrap (111 - (n : Int))).tmod 128 = ((zn n : Nat) : Int) := by
  rw [IntKind.wrap_u64]
  unfold zn
  rw [Int.tmod_eq_emod_of_nonneg (by omega)]
  omega
theorem zn_lt (n : Nat) : zn n < 128 := Nat.mod_lt _ (by omega)
theorem index86 (a b : Nat) (w : World) : ∀ j, j < 2 → (Instr.index 86 (.agg #[.int .u64 a, .int .u64 b]) (.int .i64 (j : Nat))).run Try.prog w = .ok (.int .u64 (([a, b] : List Nat).getD j 0 : Nat)) w
  | 0, _ => by kernel_rfl
  | 1, _ => by kernel_rfl

def GivesB (w : World) (l : List UInt8) (e : Ending) (w' : World) : Prop := ∃ v, e = .returned v ∧ OwnB w' w.heap.size v l ∧ Below w.heap.size w w'

set_option maxHeartbeats 1000000 in
theorem padding_any (n : Nat) (hn : n < 1099511627776) (w : World) : Calls Try.prog 39 #[.int .u64 n] w (GivesB w (padL n)) := by
  have hz := zn_int n (by omega)
  have hzl := zn_lt n
  rw [show padL n = 128 :: List.replicate (zn n) 0 ++ tl2 (n / 2305843009213693952) (n * 8) 2 from rfl]
  generalize zn n = z at *
  generalize hHD : 128 :: List.replicate z (0 : UInt8) = HD
  generalize ha : n / 2305843009213693952 = a
  generalize hb : n * 8 = b
  have HHD := Lib.hid hHD
  have HA := Lib.hid ha
  have HBB := Lib.hid hb
  clear hHD ha hb
  go_enter Try.func39, Try.ntmps39
  have e1 : (n : Int) / 2305843009213693952 = ((n / 2305843009213693952 : Nat) : Int) := by omega
  have e2 : (n : Int) * 8 = ((n * 8 : Nat) : Int) := by omega
  have E1 := Lib.hid e1
  have E2 := Lib.hid e2
  clear e1 e2
  go_wp2_with (first | (at_make; refine wpList_makeB rfl _ _ rfl .u64 .u64 (1 + z) (1 + z + 16) rfl rfl (by omega) (by omega) ?_; intro w1 hh1 hz1 hg1) | ((with_reducible show wpList _ _ _ (⟨none, .store 5 (.tmp 18) _, _, _, _, _⟩ :: _) _ _); refine wpList_store_one rfl 5 (.tmp 18) _ rfl w.heap.size 0 rfl .u8 128 rfl 5 _ hh1 size5 (by simp [zbs, bcs_len]) ?_; intro w2 hh2 hg2 hz2))
  have HO : Hid (OwnB w2 w.heap.size (.slice (some ⟨w.heap.size, 0, none⟩) (1 + z) (1 + z + 16)) (128 :: List.replicate z 0)) := by
    have hp := partb_snoc [] (1 + z + 16) 128 (by simp)
    rw [partb_nil] at hp
    have hh : w2.heap[w.heap.size]? = some (.cells (partb [128] (1 + z + 16)) 5 (0, 0)) := by rw [hh2]; exact congrArg (fun c => some (Obj.cells c 5 (0, 0))) hp
    have := OwnB.of_row (B := w.heap.size) (l := 128 :: List.replicate z 0) (Nat.le_refl _) hh (partb_size _ _ (by simp)) (by simp; omega) (by unfold maxLen; omega) (by
      unfold partb
      rw [List.toList_toArray, ← bcs_takeD]
      congr 1
      simp [List.take_replicate]
      omega)
    refine Lib.hid ?_
    rw [show (128 :: List.replicate z (0 : UInt8)).length = 1 + z from by simp; omega] at this
    exact this
  have HB : Hid (Below w.heap.size w w2) := ((Below.refl _ w).grown hg1 (Nat.le_refl _) (by simp)).grown hg2 (by omega) (fun r hr => by injection hr; omega)
  have hsz : w.heap.size ≤ w2.heap.size := HB.out.size
  clear hh1 hg1 hh2 hg2 hz1 hz2 hz
  rw [E1.out, E2.out, HA.out, HBB.out]
  rw [HHD.out] at HO
  have hHL : HD.length ≤ 200 := by rw [← HHD.out]; simp; omega
  clear E1 E2 HHD HA HBB
  go_wp2
  go_loopw [4, 6, 7, 24, 27] (fun p _ _ i _ wr => ∃ j : Nat, j ≤ 2 ∧ i = .int .i64 j ∧ OwnB wr w.heap.size p (HD ++ tl2 a b j) ∧ Below w.heap.size w wr) (fun _ _ _ i _ _ => 2 - (intOf i).toNat)
  case atStart => exact ⟨0, by omega, rfl, by simpa [tl2] using HO.out, HB.out⟩
  case round =>
    obtain ⟨j, hj, rfl, ho, hb⟩ := hrel
    have H := Lib.hid ho
    have HB := Lib.hid hb
    clear ho hb HO
    have htl : (tl2 a b j).length ≤ 16 := by
      match j, hj with
      | 0, _ => simp [tl2]
      | 1, _ => simp [tl2, beP_len]
      | 2, _ => simp [tl2, beP_len]
    by_cases hlt : j < 2
    · have hix := fun w => index86 a b w j hlt
      have HT := Lib.hid (tl2_succ a b j hlt)
      generalize ([a, b] : List Nat).getD j 0 = x at *
      go_wp2_with fail
      obtain ⟨wo, hwo⟩ : ∃ wo : World, wo = wr := ⟨_, rfl⟩
      rw [← hwo] at H HB ⊢
      clear hwo
      rw [show decide ((j : Int) < 2) = true from by simp; omega]
      go_loopw [4, 7, 27] (fun p _ i wr => ∃ k : Nat, k ≤ 8 ∧ i = .int .i64 k ∧ OwnB wr w.heap.size p (HD ++ tl2 a b j ++ beP x k) ∧ Below w.heap.size w wr) (fun _ _ i _ => 8 - (intOf i).toNat)
      case atStart => exact ⟨0, by omega, rfl, by simpa [beP] using H.out, HB.out⟩
      case round =>
        obtain ⟨k, hk, rfl, ho, hb⟩ := hrel
        have H1 := Lib.hid ho
        have HB1 := Lib.hid hb
        have hsz1 := hb.size
        clear ho hb
        by_cases hlt1 : k < 8
        · have HS := Lib.hid (beP_succ x k)
          have HV := Lib.hid (byte_of x (56 - 8 * k) _ rfl)
          generalize UInt8.ofNat (x / 2 ^ (56 - 8 * k)) = y at *
          have HA := Lib.hid (H1.out.keep (below_alloc wr (.cells #[.int .u8 ((x : Int) / 2 ^ (56 - 8 * k) % 256)] 5)))
          have HSr : Hid (Src (wr.alloc (.cells #[.int .u8 ((x : Int) / 2 ^ (56 - 8 * k) % 256)] 5)) (· < wr.heap.size + 1) (some ⟨wr.heap.size, 0, none⟩) 1 (bcs [y])) := by rw [HV.out]; exact src1 wr y
          have hll : (HD ++ tl2 a b j ++ beP x k).length ≤ 300 := by simp [beP_len] at *; omega
          go_wp2_with (at_builtin; refine wpList_appB ?g1 _ _ rfl w.heap.size _ _ rfl HA.out _ _ 1 1 [y] rfl HSr.out (by omega) (by simp; omega) ?_; exact rfl; intro v' w3 ho3 hb3)
          have HO3 : Hid (OwnB w3 w.heap.size v' (HD ++ tl2 a b j ++ beP x (k + 1))) := by rw [HS.out, ← List.append_assoc]; exact ho3
          have HB3 : Hid (Below w.heap.size w w3) := (HB1.out.trans ((below_alloc wr _).mono hsz1)).trans hb3
          clear ho3 hb3
          go_wp2
          go_roundw
          case rel =>
            exact ⟨k + 1, by omega, by go_num, HO3.out, HB3.out⟩
          case measure => simp [intOf]; omega
        · obtain rfl : k = 8 := by omega
          rw [List.append_assoc, ← HT.out] at H1
          clear hlt1 hk
          go_wp2
          go_roundw
          case rel =>
            first | exact ⟨j + 1, by omega, by go_num, H1.out, HB1.out⟩ | ((repeat apply Exists.intro); exact ⟨⟨j + 1, by omega, by go_num, H1.out, HB1.out⟩, rfl⟩)
          case measure => simp [intOf]; omega
    · obtain rfl : j = 2 := by omega
      clear hlt hj
      go_wp2
      go_ret
      exact ⟨_, rfl, H.out, HB.out⟩
end Go.Proofs.Ytkglicidjdifkaa
