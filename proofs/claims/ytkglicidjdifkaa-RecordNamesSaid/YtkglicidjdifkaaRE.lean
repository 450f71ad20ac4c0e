/- More calls of package record: sizes, the first chain, equal bytes. No statement is proved here. -/
import Derived.Test.YtkglicidjdifkaaRD
namespace Go.Proofs.Ytkglicidjdifkaa
open Go.RowKit
set_option linter.unusedVariables false
set_option linter.unusedSimpArgs false
theorem below_drew {B : Nat} {w w' : World} (h : Below B w.drew w') : Below B w w' := ⟨h.os, h.tape, h.output, h.size, h.block⟩
theorem i64_small (x : Int) (h : -9223372036854775808 ≤ x ∧ x < 9223372036854775808) : IntKind.i64.wrap x = x := by
  rw [IntKind.wrap_i64]
  omega
set_option maxRecDepth 100000 in
set_option maxHeartbeats 1000000 in
theorem size_any (w : World) (k : UInt8) (A : Option Addr) (n c : Nat) (hn : n ≤ 100000000) :
    Calls Try.prog 14 #[vR k A n c] w fun e w' => e = .returned (.int .i64 ((if okR k n = true then sizeR n else 0 : Nat) : Int)) ∧ Below w.heap.size w w' := by
  have HHL := Lib.hid (hdL_len k n)
  have HSZ := Lib.hid (sz_le n)
  have CK := Lib.hid (fun W => check_any W k A n c (by omega))
  unfold vR at *
  cases hok : okR k n
  · have CK2 : Hid (∀ W : World, Calls Try.prog 13 #[.agg #[.int .u8 (k.toNat : Int), .slice A n c]] W fun e w' => e = .returned (.int .i64 2) ∧ Below W.heap.size W w') := Lib.hid (fun W => by have := CK.out W; rw [hok] at this; exact this)
    clear CK hok
    go_enter Try.func14, Try.ntmps14
    go_wp2_with (first | (with_reducible refine wpList_box_row rfl 31 _ rfl _ rfl ?_; intro w1 hh1 hz1 hg1; have HR1 := Lib.hid (RAt.mk hh1); have HB1 := Lib.hid (below_of_grownBy hg1); have HZ1 := Lib.hid hz1; clear hg1 hh1 hz1) | ((with_reducible show wpList _ _ _ (⟨_, .load 31 (.tmp 1), _, _, _, _⟩ :: _) _ _); refine wpList_exec rfl _ (exec_rec rfl rfl HR1.out) ?_))
    refine (CK2.out w1).mono ?_
    rintro e2 w2 ⟨rfl, hb2⟩
    have HB2 := Lib.hid (HB1.out.trans (hb2.mono HB1.out.size))
    clear hb2
    go_wp2
    go_ret
    exact ⟨rfl, HB2.out⟩
  · have CK2 : Hid (∀ W : World, Calls Try.prog 13 #[.agg #[.int .u8 (k.toNat : Int), .slice A n c]] W fun e w' => e = .returned (.int .i64 0) ∧ Below W.heap.size W w') := Lib.hid (fun W => by have := CK.out W; rw [hok] at this; exact this)
    clear CK hok
    go_enter Try.func14, Try.ntmps14
    go_wp2_with (first | (with_reducible refine wpList_box_row rfl 31 _ rfl _ rfl ?_; intro w1 hh1 hz1 hg1; have HR1 := Lib.hid (RAt.mk hh1); have HB1 := Lib.hid (below_of_grownBy hg1); have HZ1 := Lib.hid hz1; clear hg1 hh1 hz1) | ((with_reducible show wpList _ _ _ (⟨_, .load 31 (.tmp 1), _, _, _, _⟩ :: _) _ _); refine wpList_exec rfl _ (exec_rec rfl rfl HR1.out) ?_))
    refine (CK2.out w1).mono ?_
    rintro e2 w3 ⟨rfl, hb2⟩
    have HB3 := Lib.hid (HB1.out.trans (hb2.mono HB1.out.size))
    have HR3 := Lib.hid (HR1.out.below hb2 (by have := HZ1.out; omega))
    clear hb2 CK2
    go_wp2_with fail
    refine anyStart (fun b => False) (by kernel_rfl) ?_
    refine anyTake (i := 0) (oi := { dst := some 6, op := Op.load 31 (Operand.tmp 1), type := 31, pos := "record.go:53", after := #[], guard := none }) rfl (by kernel_rfl) (by kernel_rfl) (by kernel_rfl) (fun _ _ _ h => h) (by rfl) (fun w' hk => exec_rec rfl rfl (HR3.out.drew.keeps hk id)) ?_
    simp only [Act.put, List.setIfInBounds_toArray, List.set_cons_zero, List.set_cons_succ]
    refine anyTakeE (i := 3) (oi := { dst := some 9, op := Op.fieldAddr 31 (Operand.tmp 1) 1, type := 0, pos := "record.go:53", after := #[], guard := none }) rfl (by kernel_rfl) (by kernel_rfl) (by kernel_rfl) (fun _ _ _ _ h => h) (by rfl) ?_
    apply Exists.intro
    refine ⟨fun w' hk => ?_, ?_⟩
    · go_simp <;> with_reducible rfl
    simp only [Act.put, List.setIfInBounds_toArray, List.set_cons_zero, List.set_cons_succ]
    refine anyTake (i := 4) (oi := { dst := some 10, op := Op.load 26 (Operand.tmp 9), type := 26, pos := "record.go:53", after := #[{ on := 3, ground := Ground.data }], guard := none }) rfl (by kernel_rfl) (by kernel_rfl) (by kernel_rfl) (fun _ _ _ h => h) (by rfl) (fun w' hk => exec_one rfl rfl (Try.isAgg26 w') (HR3.out.drew.keeps hk id).c1) ?_
    simp only [Act.put, List.setIfInBounds_toArray, List.set_cons_zero, List.set_cons_succ]
    refine anyTakeE (i := 5) (oi := { dst := some 11, op := Op.call { callee := Callee.builtin Builtin.len, args := #[Operand.tmp 10], argTypes := #[26] }, type := 3, pos := "record.go:53", after := #[{ on := 4, ground := Ground.data }], guard := none }) rfl (by kernel_rfl) (by kernel_rfl) (by kernel_rfl) (fun _ _ _ _ h => h) (by rfl) ?_
    apply Exists.intro
    refine ⟨fun w' hk => ?_, ?_⟩
    · go_simp <;> with_reducible rfl
    simp only [Act.put, List.setIfInBounds_toArray, List.set_cons_zero, List.set_cons_succ]
    refine anyCall (i := 1) (oi := { dst := some 7, op := Op.call { callee := Callee.value (Operand.func 24), args := #[Operand.tmp 6], argTypes := #[31] }, type := 26, pos := "record.go:53", after := #[{ on := 0, ground := Ground.data }], guard := none }) rfl (by kernel_rfl) (by rfl) ?_ ((head_any w3.drew k A n c (by omega)).mono ?_)
    · go_simp
    rintro e4 w4 ⟨v4, rfl, hf4⟩
    obtain ⟨A4, c4, rfl, hc4, hm4, hs4⟩ := hf4.shape
    have hb4 : Below w3.drew.heap.size w3.drew w4 := hf4.2
    have HB4d := Lib.hid hb4
    have HB4 := Lib.hid (show Below w3.heap.size w3 w4 from ⟨hb4.os, hb4.tape, hb4.output, hb4.size, hb4.block⟩)
    clear hs4 hb4 hf4 hc4 hm4
    refine ⟨_, rfl, Keeps.of_below HB4d.out, ?_⟩
    simp only [Act.put, List.setIfInBounds_toArray, List.set_cons_zero, List.set_cons_succ]
    refine anyTakeE (i := 2) (oi := { dst := some 8, op := Op.call { callee := Callee.builtin Builtin.len, args := #[Operand.tmp 7], argTypes := #[26] }, type := 3, pos := "record.go:53", after := #[{ on := 1, ground := Ground.data }], guard := none }) rfl (by kernel_rfl) (by kernel_rfl) (by kernel_rfl) (fun _ _ _ _ h => h) (by rfl) ?_
    apply Exists.intro
    refine ⟨fun w' hk => ?_, ?_⟩
    · go_simp <;> with_reducible rfl
    simp only [Act.put, List.setIfInBounds_toArray, List.set_cons_zero, List.set_cons_succ]
    refine anyTakeE (i := 6) (oi := { dst := some 12, op := Op.binOp BinOp.add 3 (Operand.tmp 8) (Operand.tmp 11) 3, type := 3, pos := "record.go:53", after := #[{ on := 2, ground := Ground.data }, { on := 5, ground := Ground.data }], guard := none }) rfl (by kernel_rfl) (by kernel_rfl) (by kernel_rfl) (fun _ _ _ _ h => h) (by rfl) ?_
    apply Exists.intro
    refine ⟨fun w' hk => ?_, ?_⟩
    · go_simp <;> with_reducible rfl
    simp only [Act.put, List.setIfInBounds_toArray, List.set_cons_zero, List.set_cons_succ]
    refine anyTakeE (i := 7) (oi := { dst := some 13, op := Op.binOp BinOp.add 3 (Operand.tmp 12) (Operand.const (Value.int IntKind.i64 8)) 3, type := 3, pos := "record.go:53", after := #[{ on := 6, ground := Ground.data }], guard := none }) rfl (by kernel_rfl) (by kernel_rfl) (by kernel_rfl) (fun _ _ _ _ h => h) (by rfl) ?_
    apply Exists.intro
    refine ⟨fun w' hk => ?_, ?_⟩
    · go_simp <;> with_reducible rfl
    simp only [Act.put, List.setIfInBounds_toArray, List.set_cons_zero, List.set_cons_succ]
    refine anyTakeE (i := 8) (oi := { dst := some 2, op := Op.assign (Operand.tmp 13), type := 3, pos := "record.go:53", after := #[{ on := 7, ground := Ground.data }, { on := 1, ground := Ground.chain }, { on := 0, ground := Ground.phase }, { on := 1, ground := Ground.phase }, { on := 2, ground := Ground.phase }, { on := 3, ground := Ground.phase }, { on := 4, ground := Ground.phase }, { on := 5, ground := Ground.phase }, { on := 6, ground := Ground.phase }, { on := 7, ground := Ground.phase }], guard := none }) rfl (by kernel_rfl) (by kernel_rfl) (by kernel_rfl) (fun _ _ _ _ h => h) (by rfl) ?_
    apply Exists.intro
    refine ⟨fun w' hk => ?_, ?_⟩
    · go_simp <;> with_reducible rfl
    simp only [Act.put, List.setIfInBounds_toArray, List.set_cons_zero, List.set_cons_succ]
    refine anyDone (by kernel_rfl) ?_ _
    go_wp2
    go_ret
    refine ⟨ret_int ?_, HB3.out.trans (HB4.out.mono HB3.out.size)⟩
    have h1 := HHL.out
    have h2 := HSZ.out
    rw [h1, i64_small (((1 + sz n : Nat) : Int) + (n : Int)) (by omega), i64_small _ (by omega)]
    unfold sizeR
    omega
set_option maxHeartbeats 1000000 in
theorem first_any (w : World) (m : Nat) (hm : m < 18446744073709551616) : Calls Try.prog 7 #[.int .u64 m] w (Gives (.agg (bcs (sum256 (le m 8))).toArray) w) := by
  have HW : Hid (le m (wsz 8) = le m 8) := rfl
  have CW := Lib.hid (fun W : World => word_any W (fun _ => False) none 0 0 [] m 8 (Src.nil_ _ _ _) (fun b hb => hb.elim) (by omega) hm)
  have HSL := Lib.hid (sum256_len (le m 8))
  have hlen := le_len m 8
  have CS := Lib.hid (fun (W : World) (hp : Parts W (· < W.heap.size) (some ⟨W.heap.size - 1, 0, none⟩) [le m 8]) => sum256_any [le m 8] W (· < W.heap.size) _ 1 hp (fun b hb => hb) (by simp [hlen]) (by simp))
  go_enter Try.func7, Try.ntmps7
  go_wp2_with (with_reducible refine wpList_alloc_row rfl 23 rfl (.agg (zbs 32)) zero23 ?_; intro w3 hh3 hz3 hg3; have HO := Lib.hid (DAt.mk (ch := List.replicate 32 0) hh3 (by simp)); have HB3 := Lib.hid (below_of_grownBy hg3); have HZ3 := Lib.hid hz3; clear hg3 hh3 hz3)
  refine (CW.out w3).mono ?_
  rintro e4 w4 ⟨v4, rfl, hf4⟩
  obtain ⟨A4, c4, rfl, hc4, hm4, hs4⟩ := hf4.shape
  have HS4 := Lib.hid hs4
  have HM4 := Lib.hid (And.intro hc4 hm4)
  have HB4 := Lib.hid hf4.2
  clear hs4 hf4 hc4 hm4 CW
  rw [List.nil_append, HW.out] at *
  have hlen2 := le_len m 8
  rw [hlen2] at HM4 HS4
  have hp : Parts (w4.alloc (.cells #[.slice A4 8 c4] 26)) (· < w4.heap.size + 1) (some ⟨w4.heap.size, 0, none⟩) [le m 8] := ⟨fun i hi => by
    have h0 : i = 0 := by simp at hi; omega
    subst h0
    refine ⟨_, _, _, _, _, rfl, Nat.lt_succ_self _, ?_, (HS4.out.alloc (fun b hb => hb.2) _).weak (fun b hb => Nat.lt_succ_of_lt hb.2), HM4.out⟩
    rw [Nat.zero_add, cell_of_row _ _ _ _ _ _ (heap_alloc_new w4 _)]
    rfl⟩
  have HP := Lib.hid hp
  clear hp hlen hlen2
  go_wp2_with fail
  refine (sum256_any [le m 8] _ _ _ 1 HP.out (fun b hb => by simpa using hb) (by simp [le_len]) (by simp)).mono ?_
  rw [show [le m 8].flatten = le m 8 from by simp]
  rintro e5 w5 ⟨rfl, hb5⟩
  have HB5 := Lib.hid hb5
  have hsz4 := HB4.out.size
  have HBa : Hid (Below w.heap.size w (w4.alloc (.cells #[.slice A4 8 c4] 26))) := Lib.hid ((HB3.out.trans (HB4.out.mono HB3.out.size)).trans ((below_alloc w4 _).mono (by have := HB3.out.size; omega)))
  have HO5 := Lib.hid (((HO.out.below HB4.out (by have := HZ3.out; omega)).below (below_alloc w4 (.cells #[.slice A4 8 c4] 26)) (by have := HZ3.out; omega)).below HB5.out (by rw [World.size_alloc]; have := HZ3.out; omega))
  clear hb5 hsz4 CS
  generalize sum256 (le m 8) = R at *
  go_wp2_with ((with_reducible show wpList _ _ _ (⟨none, .store 23 (.tmp 2) (.tmp 6), _, _, _, _⟩ :: _) _ _); refine wpList_store_all rfl 23 (.tmp 2) (.tmp 6) rfl w.heap.size rfl (bcs R).toArray rfl 23 _ HO5.out.row (by rw [size23]; simp [bcs_len, HSL.out]) (by simp [bcs_len, HSL.out]) (by simpa using bcs_one R) ?_; intro w6 hh6 hg6 hz6)
  have H6 := Lib.hid hh6
  have G6 := Lib.hid hg6
  clear hh6 hg6
  go_wp2
  refine bodyPost_ret (results_cell_row rfl _ _ w.heap.size 23 (bcs R).toArray _ _ rfl H6.out under23 rfl (by rw [size23]; simp [bcs_len, HSL.out])) rfl ?_
  exact ⟨rfl, ((HBa.out.trans (HB5.out.mono HBa.out.size)).grown G6.out (by have := HBa.out.size; have := HB5.out.size; omega) (fun r e => by injection e; omega))⟩
end Go.Proofs.Ytkglicidjdifkaa
