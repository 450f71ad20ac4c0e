/- The schedule of a piece. No statement is proved here. -/
import Derived.Test.YtkglicidjdifkaaSB
import Derived.Deep.QuietTactic
import Derived.BigQuiet
import Derived.StillTailTactics
import Derived.IntWalk
namespace Go.Proofs.Ytkglicidjdifkaa
open Go.RowKit

theorem list8 {α : Type} (l : List α) (h : l.length = 8) : ∃ a b c d e f g i, l = [a, b, c, d, e, f, g, i] := by
  match l, h with
  | [a, b, c, d, e, f, g, i], _ => exact ⟨a, b, c, d, e, f, g, i, rfl⟩

theorem or_join {k A B : Nat} (hA : A % 2 ^ k = 0) (hB : B < 2 ^ k) (ha : A < 18446744073709551616) (hk : k ≤ 64) : bits .or .u64 (A : Int) (B : Int) = ((A + B : Nat) : Int) := by
  have h2 : (2 : Nat) ^ k ≤ 2 ^ 64 := Nat.pow_le_pow_right (by omega) hk
  rw [u64_or_nat A B ha (by omega), nat_join k A B hA hB]

set_option maxHeartbeats 1000000 in
theorem sword_any (l : List UInt8) (hl : l.length = 8) (w : World) :
    Calls Try.prog 58 #[.agg (bcs l).toArray] w (Gives (.int .u64 (beN l)) w) := by
  obtain ⟨b0, b1, b2, b3, b4, b5, b6, b7, rfl⟩ := list8 l hl
  show Calls Try.prog 58 #[.agg #[bc b0, bc b1, bc b2, bc b3, bc b4, bc b5, bc b6, bc b7]] w _
  unfold bc
  have l0 := b0.toNat_lt
  have l1 := b1.toNat_lt
  have l2 := b2.toNat_lt
  have l3 := b3.toNat_lt
  have l4 := b4.toNat_lt
  have l5 := b5.toNat_lt
  have l6 := b6.toNat_lt
  have l7 := b7.toNat_lt
  go_enter Try.func58, Try.ntmps58
  go_wp2
  go_ret
  refine ⟨ret_int ?_, (Below.refl _ _).alloc (Nat.le_refl _) _⟩
  show bits .or .u64 (bits .or .u64 (bits .or .u64 (bits .or .u64 (bits .or .u64 (bits .or .u64 (bits .or .u64 ((b0.toNat : Int) * 72057594037927936) ((b1.toNat : Int) * 281474976710656)) ((b2.toNat : Int) * 1099511627776)) ((b3.toNat : Int) * 4294967296)) ((b4.toNat : Int) * 16777216)) ((b5.toNat : Int) * 65536)) ((b6.toNat : Int) * 256)) (b7.toNat : Int) = _
  have d0 : (b0.toNat : Int) * 72057594037927936 = ((b0.toNat * 72057594037927936 : Nat) : Int) := by omega
  have d1 : (b1.toNat : Int) * 281474976710656 = ((b1.toNat * 281474976710656 : Nat) : Int) := by omega
  have d2 : (b2.toNat : Int) * 1099511627776 = ((b2.toNat * 1099511627776 : Nat) : Int) := by omega
  have d3 : (b3.toNat : Int) * 4294967296 = ((b3.toNat * 4294967296 : Nat) : Int) := by omega
  have d4 : (b4.toNat : Int) * 16777216 = ((b4.toNat * 16777216 : Nat) : Int) := by omega
  have d5 : (b5.toNat : Int) * 65536 = ((b5.toNat * 65536 : Nat) : Int) := by omega
  have d6 : (b6.toNat : Int) * 256 = ((b6.toNat * 256 : Nat) : Int) := by omega
  rw [d0, d1, d2, d3, d4, d5, d6]
  rw [or_join (k := 56) (by omega) (by omega) (by omega) (by omega), or_join (k := 48) (by omega) (by omega) (by omega) (by omega), or_join (k := 40) (by omega) (by omega) (by omega) (by omega), or_join (k := 32) (by omega) (by omega) (by omega) (by omega),
    or_join (k := 24) (by omega) (by omega) (by omega) (by omega), or_join (k := 16) (by omega) (by omega) (by omega) (by omega), or_join (k := 8) (by omega) (by omega) (by omega) (by omega)]
  have e : beN [b0, b1, b2, b3, b4, b5, b6, b7] = b0.toNat * 72057594037927936 + b1.toNat * 281474976710656 + b2.toNat * 1099511627776 + b3.toNat * 4294967296 + b4.toNat * 16777216 + b5.toNat * 65536 + b6.toNat * 256 + b7.toNat := by
    simp only [beN, List.foldl_cons, List.foldl_nil]
    omega
  rw [e]

theorem under99 : Try.prog.underlying 99 = some (.array 8 5) := by kernel_rfl
theorem size99 : (Try.prog.info? 99).map (·.size) = some 8 := by kernel_rfl
theorem size25 : (Try.prog.info? 25).map (·.size) = some 1 := by kernel_rfl
theorem size5 : (Try.prog.info? 5).map (·.size) = some 1 := by kernel_rfl

/-- A row of n words, of which the first are known, the others zero. -/
def part (l : List Nat) (n : Nat) : Array Value := (ucs (l ++ List.replicate (n - l.length) 0)).toArray
theorem part_size (l : List Nat) (n : Nat) (h : l.length ≤ n) : (part l n).size = n := by simp [part, ucs_len]; omega
theorem part_nil (n : Nat) : part [] n = zw n := by simp [part, zw]
theorem part_snoc (l : List Nat) (n x : Nat) (h : l.length < n) : (part l n).setIfInBounds l.length (.int .u64 (x : Int)) = part (l ++ [x]) n := by
  have h1 : n - l.length = (n - (l ++ [x]).length) + 1 := by simp; omega
  unfold part
  rw [h1, List.replicate_succ, ucs_append, ucs_append, ucs_append]
  apply Array.toList_inj.1
  rw [Array.toList_setIfInBounds]
  simp [ucs, uc]
theorem part_full (l : List Nat) : part l l.length = (ucs l).toArray := by simp [part]
theorem part_get {w : World} {g n : Nat} {t : TypeId} {l : List Nat} (h : w.heap[g]? = some (.cells (part l n) t (0, 0))) (i : Nat) (hi : i < l.length) : w.cell? ⟨g, i, none⟩ = some (.int .u64 (l.getD i 0 : Nat)) := by
  rw [cell_of_row w g i _ _ _ h]
  simp [part, ucs, List.getElem?_append, hi, uc]

theorem sched0_succ (blk : List UInt8) (n : Nat) : sched0 blk (n + 1) = sched0 blk n ++ [beN ((blk.drop (8 * n)).take 8)] := by simp [sched0, List.range_succ]

theorem slice84 (b lo hi : Nat) (h1 : lo ≤ hi) (h2 : hi ≤ 128) (h3 : lo < 128) (L H : Int) (hL : L = lo) (hH : H = hi) (w : World) :
    (Instr.sliceAt 84 (.pointer (some ⟨b, 0, none⟩)) (some (.int .i64 L)) (some (.int .i64 H)) none).run Try.prog w = .ok (.slice (some ⟨b, lo, none⟩) (hi - lo) (128 - lo)) w := by
  subst hL; subst hH
  have hadd : (⟨b, 0, none⟩ : Addr).add lo = ⟨b, lo, none⟩ := by unfold Addr.add; split <;> simp_all
  have h128 : Try.prog.arrayLen 84 = 128 := by kernel_rfl
  have hel : Try.prog.elem 84 = 5 := by kernel_rfl
  have hsz : (sizeOf 5).run Try.prog w = .ok 1 w := by kernel_rfl
  have h4 : ¬ (128 = lo) := by omega
  rw [run_sliceAt_array_lh w 84 ⟨b, 0, none⟩ (by rw [h128, hel]; exact under84) .i64 .i64 lo hi (by omega) (by omega) (by rw [h128]; omega), hel, hsz]
  simp [Result.andThen, slicedAt, h128, h4, hadd]
theorem run_arr99 (A : Option Addr) (n c : Nat) (h : 8 ≤ n) (w : World) : (Instr.arrayAt 99 (.slice A n c)).run Try.prog w = .ok (.pointer A) w := by
  have hn : ¬ n < 8 := by omega
  simp [Instr.arrayAt, run_underlying under99, hn]
def m64 (x : Nat) : Nat := x % 18446744073709551616
/-- A word's bound, behind a name. -/
def U64 (x : Nat) : Prop := x < 18446744073709551616
theorem ss0_bits {x : Nat} (hx : U64 x) : bits .xor .u64 (bits .xor .u64 (rotr x 1 : Nat) (rotr x 8 : Nat)) ((x : Int) / 128) = ((ss0 x : Nat) : Int) := by
  have e : (x : Int) / 128 = ((x / 128 : Nat) : Int) := by omega
  have hx' : x < 18446744073709551616 := hx
  rw [xor_nat (rotr_lt 1 hx) (rotr_lt 8 hx), e, xor_nat (xor64 (rotr_lt 1 hx) (rotr_lt 8 hx)) (by omega)]
  rfl
theorem ss1_bits {x : Nat} (hx : U64 x) : bits .xor .u64 (bits .xor .u64 (rotr x 19 : Nat) (rotr x 61 : Nat)) ((x : Int) / 64) = ((ss1 x : Nat) : Int) := by
  have e : (x : Int) / 64 = ((x / 64 : Nat) : Int) := by omega
  have hx' : x < 18446744073709551616 := hx
  rw [xor_nat (rotr_lt 19 hx) (rotr_lt 61 hx), e, xor_nat (xor64 (rotr_lt 19 hx) (rotr_lt 61 hx)) (by omega)]
  rfl
theorem add3 (a b c d : Nat) : IntKind.u64.wrap (IntKind.u64.wrap (IntKind.u64.wrap ((a : Int) + b) + c) + d) = ((m64 (a + b + c + d) : Nat) : Int) := by
  unfold m64
  simp only [IntKind.wrap_u64]
  omega
/-- The schedule's memory. -/
structure Sc (B : Nat) (w0 : World) (blk : List UInt8) (l : List Nat) (wr : World) : Prop where
  b1 : wr.heap[B]? = some (.cells (bcs blk).toArray 84 (0, 0))
  b2 : wr.heap[B + 1]? = some (.cells (zw 80) 93 (0, 0))
  b3 : wr.heap[B + 2]? = some (.cells (part l 80) 93 (0, 0))
  lt : B + 3 ≤ wr.heap.size
  bel : Below B w0 wr
theorem Sc.below {B : Nat} {w0 : World} {blk : List UInt8} {l : List Nat} {wr w' : World} (h : Sc B w0 blk l wr) (hb : Below wr.heap.size wr w') : Sc B w0 blk l w' := by
  have := h.lt
  exact ⟨(hb.block _ (by omega)).trans h.b1, (hb.block _ (by omega)).trans h.b2, (hb.block _ (by omega)).trans h.b3, Nat.le_trans h.lt hb.size, h.bel.trans (hb.mono (by omega))⟩
theorem Sc.drewN {B : Nat} {w0 : World} {blk : List UInt8} {l : List Nat} {wr : World} (h : Sc B w0 blk l wr) (k : Nat) : Sc B w0 blk l (wr.drewN k) := ⟨h.b1, h.b2, h.b3, h.lt, below_drewN' h.bel k⟩
theorem Sc.snoc {B : Nat} {w0 : World} {blk : List UInt8} {l : List Nat} {wr w' : World} (h : Sc B w0 blk l wr) (x : Nat) (hx : l.length < 80) (hb : wr.grownBy w' (some (B + 2))) (h3 : w'.heap[B + 2]? = some (.cells ((part l 80).setIfInBounds l.length (.int .u64 (x : Int))) 93 (0, 0))) : Sc B w0 blk (l ++ [x]) w' := by
  have := h.lt
  refine ⟨(hb.block _ (by omega) (by simp)).trans h.b1, (hb.block _ (by omega) (by simp)).trans h.b2, by rw [h3, part_snoc l 80 x hx], Nat.le_trans h.lt hb.size, h.bel.grown hb (by omega) (fun r hr => by injection hr; omega)⟩

set_option maxRecDepth 100000 in
set_option maxHeartbeats 1000000 in
theorem schedule_any (blk : List UInt8) (hl : blk.length = 128) (w : World) :
    Calls Try.prog 55 #[.agg (bcs blk).toArray] w (Gives (.agg (ucs (sched blk)).toArray) w) := by
  have hl' : 128 ≤ blk.length := by omega
  have HLL := Lib.hid hl
  clear hl
  have M1 : Hid True := trivial
  go_enter Try.func55, Try.ntmps55
  go_wp2_with (first | (clear M1; with_reducible refine wpList_alloc_row rfl 93 rfl (.agg (zw 80)) zero93 ?_; intro w0 hh0 hz0 hg0; have HZ0 := Lib.hid hz0) | (with_reducible refine wpList_alloc_row rfl 93 rfl (.agg (zw 80)) zero93 ?_; intro w1 hh1 hz1 hg1; have HZ := Lib.hid hz1))
  have HSc : Hid (Sc w.heap.size w blk [] w1) := by
    have z0 := HZ0.out
    have z1 := HZ.out
    simp only [World.size_alloc] at z0 hh0
    rw [z0] at z1 hh1
    refine ⟨?_, ?_, ?_, by omega, ?_⟩
    · exact (hg1.block _ (by omega) (by simp)).trans ((hg0.block _ (by simp) (by simp)).trans (heap_alloc_new w _))
    · exact (hg1.block _ (by omega) (by simp)).trans hh0
    · rw [part_nil]; exact hh1
    · exact (((Below.refl _ _).alloc (Nat.le_refl _) _).grown hg0 (by simp) (by simp)).grown hg1 (by omega) (by simp)
  clear hh0 hg0 HZ0 hh1 hg1 HZ
  have hsz := HSc.out.lt
  go_loopw [4, 10] (fun _ i wr => ∃ j : Nat, j ≤ 16 ∧ i = .int .i64 j ∧ Sc w.heap.size w blk (sched0 blk j) wr) (fun _ i _ => 16 - (intOf i).toNat)
  case atStart => exact ⟨0, by omega, rfl, HSc.out⟩
  case round =>
    obtain ⟨j, hj, rfl, hsc⟩ := hrel
    have H := Lib.hid hsc
    clear hsc HSc
    by_cases hlt : j < 16
    · have hsl := fun W => slice84 w.heap.size (8 * j) (8 * j + 8) (by omega) (by omega) (by omega) (8 * (j : Int)) (8 * (j : Int) + 8) (by omega) (by omega) W
      have harr := fun W => run_arr99 (some ⟨w.heap.size, 8 * j, none⟩) 8 (128 - 8 * j) (by omega) W
      have HL : Hid (((blk.drop (8 * j)).take 8).length = 8) := by have := HLL.out; simp [Hid]; omega
      have HC : Hid (∀ i u, (bcs ((blk.drop (8 * j)).take 8))[i]? = some u → wr.cell? ⟨w.heap.size, 8 * j + i, none⟩ = some u) := fun i u hu => by
        refine row_cells H.out.b1 _ _ ?_
        rw [bcs_get, List.getElem?_take] at hu
        split at hu
        · rw [List.getElem?_drop] at hu
          rw [List.toList_toArray, bcs_get]
          exact hu
        · simp at hu
      have HS : Hid ((Try.prog.info? 99).map (·.size) = some (bcs ((blk.drop (8 * j)).take 8)).length) := by rw [size99, bcs_len, HL.out]; exact rfl
      go_wp2_with (first | ((with_reducible show wpList _ _ _ (⟨_, .load 99 (.tmp 20), _, _, _, _⟩ :: _) _ _); refine wpList_load_arr rfl 99 (.tmp 20) rfl w.heap.size (8 * j) rfl (bcs ((blk.drop (8 * j)).take 8)) HC.out _ under99 rfl HS.out ?_) | (go_at_call 58; refine (sword_any _ HL.out _).mono ?_; rintro e w2 ⟨rfl, hb2⟩; have HS2 := Lib.hid (H.out.below hb2); clear hb2) | ((with_reducible show wpList _ _ _ (⟨none, .store 25 (.tmp 23) (.tmp 22), _, _, _, _⟩ :: _) _ _); refine wpList_store_one rfl 25 (.tmp 23) (.tmp 22) rfl (w.heap.size + 2) j rfl .u64 _ rfl 93 _ HS2.out.b3 size25 (by rw [part_size _ _ (by rw [sched0_len]; omega)]; omega) ?_; intro w3 hh3 hg3 hz3; have HS3 : Hid (Sc w.heap.size w blk (sched0 blk (j + 1)) w3) := (by rw [sched0_succ]; exact HS2.out.snoc _ (by rw [sched0_len]; omega) hg3 (by rw [sched0_len]; exact hh3)); clear hh3 hg3 hz3))
      go_roundw
      case rel => exact ⟨j + 1, by omega, by go_num, HS3.out⟩
      case measure => simp [intOf]; omega
    · obtain rfl : j = 16 := by omega
      clear hlt hj
      have hs16 : ∀ x ∈ sched0 blk 16, x < 18446744073709551616 := sched0_lt blk 16
      have hn16 := sched0_len blk 16
      have HN : Hid (∀ k, (schedN (sched0 blk 16) k).length = 16 + k) := fun k => by rw [schedN_len, hn16]
      have HT : Hid (∀ k i, U64 ((schedN (sched0 blk 16) k).getD i 0)) := fun k i => getD_lt (schedN_lt _ hs16 k) i
      have HD : Hid (sched blk = schedN (sched0 blk 16) 64) := rfl
      have H0 : Hid (Sc w.heap.size w blk (schedN (sched0 blk 16) 0) wr) := H.out
      clear hs16 hn16
      have HU : Hid (∀ k, schedN (sched0 blk 16) (k + 1) = schedN (sched0 blk 16) k ++ [wnext (schedN (sched0 blk 16) k)]) := fun _ => rfl
      generalize schedN (sched0 blk 16) = SN at *
      generalize sched blk = R at *
      go_wp2
      go_loopw [5] (fun i wv => ∃ n : Nat, 16 ≤ n ∧ n ≤ 80 ∧ i = .int .i64 n ∧ Sc w.heap.size w blk (SN (n - 16)) wv) (fun i _ => 80 - (intOf i).toNat)
      case atStart => exact ⟨16, by omega, by omega, rfl, H0.out⟩
      case round =>
        obtain ⟨n, hn1, hn2, rfl, hsc⟩ := hrel
        have H1 := Lib.hid hsc
        clear hsc H0 H
        by_cases hlt : n < 80
        · have HX : Hid (∀ q, q < 16 + (n - 16) → wr.cell? ⟨w.heap.size + 1 + 1, q, none⟩ = some (.int .u64 ((SN (n - 16)).getD q 0 : Nat))) := fun q hq => part_get H1.out.b3 q (by rw [HN.out]; exact hq)
          have b1 := HT.out (n - 16) (n - 15)
          have b2 := HT.out (n - 16) (n - 2)
          have b3 := HT.out (n - 16) (n - 16)
          have b4 := HT.out (n - 16) (n - 7)
          have c1 := HX.out (n - 15) (by omega)
          have c2 := HX.out (n - 2) (by omega)
          have c3 := HX.out (n - 16) (by omega)
          have c4 := HX.out (n - 7) (by omega)
          have HV : Hid (wnext (SN (n - 16)) = m64 ((SN (n - 16)).getD (n - 16) 0 + ss0 ((SN (n - 16)).getD (n - 15) 0) + (SN (n - 16)).getD (n - 7) 0 + ss1 ((SN (n - 16)).getD (n - 2) 0))) := by
            unfold wnext
            rw [HN.out, show 16 + (n - 16) = n from by omega]
            exact rfl
          generalize (SN (n - 16)).getD (n - 15) 0 = x1 at *
          generalize (SN (n - 16)).getD (n - 2) 0 = x2 at *
          generalize (SN (n - 16)).getD (n - 16) 0 = x3 at *
          generalize (SN (n - 16)).getD (n - 7) 0 = x4 at *
          have C1 := Lib.hid c1
          have C2 := Lib.hid c2
          have C3 := Lib.hid c3
          have C4 := Lib.hid c4
          have B1 := Lib.hid b1
          have B2 := Lib.hid b2
          have B3 := Lib.hid b3
          have B4 := Lib.hid b4
          clear c1 c2 c3 c4 b1 b2 b3 b4
          go_wp2_with fail
          have c1 := C1.out
          have c2 := C2.out
          have s15 : IntKind.i64.wrap ((n : Int) - 15) = ((n - 15 : Nat) : Int) := (IntWalk.i64_in _ (by omega)).trans (by omega)
          have s2 : IntKind.i64.wrap ((n : Int) - 2) = ((n - 2 : Nat) : Int) := (IntWalk.i64_in _ (by omega)).trans (by omega)
          have l15 : ((n - 15 : Nat) : Int) < 80 := by omega
          have l2 : ((n - 2 : Nat) : Int) < 80 := by omega
          go_quiet (fail)
          obtain ⟨wq, hwq⟩ : ∃ wq, wq = wr.drewN nq := ⟨_, rfl⟩
          have HQ : Hid (Sc w.heap.size w blk (SN (n - 16)) wq) := by rw [hwq]; exact H1.out.drewN nq
          have c3 : wq.cell? ⟨w.heap.size + 1 + 1, n - 16, none⟩ = some (.int .u64 (x3 : Int)) := by rw [hwq]; exact C3.out
          have c4 : wq.cell? ⟨w.heap.size + 1 + 1, n - 7, none⟩ = some (.int .u64 (x4 : Int)) := by rw [hwq]; exact C4.out
          rw [← hwq]
          clear hwq c1 c2 s15 s2 l15 l2 H1 HX C1 C2 C3 C4
          have D3 := Lib.hid c3
          have D4 := Lib.hid c4
          clear c3 c4
          have R1 : Hid (∀ w, Calls Try.prog 59 #[.int .u64 (x1 : Int), .int .i64 1] w fun e w' => e = .returned (.int .u64 (rotr x1 1)) ∧ w = w') := fun w => right_any x1 1 w B1.out (by omega) (by omega)
          have R2 : Hid (∀ w, Calls Try.prog 59 #[.int .u64 (x1 : Int), .int .i64 8] w fun e w' => e = .returned (.int .u64 (rotr x1 8)) ∧ w = w') := fun w => right_any x1 8 w B1.out (by omega) (by omega)
          have R3 : Hid (∀ w, Calls Try.prog 59 #[.int .u64 (x2 : Int), .int .i64 19] w fun e w' => e = .returned (.int .u64 (rotr x2 19)) ∧ w = w') := fun w => right_any x2 19 w B2.out (by omega) (by omega)
          have R4 : Hid (∀ w, Calls Try.prog 59 #[.int .u64 (x2 : Int), .int .i64 61] w fun e w' => e = .returned (.int .u64 (rotr x2 61)) ∧ w = w') := fun w => right_any x2 61 w B2.out (by omega) (by omega)
          go_wp2_with (first | (go_at_call 59; (with_reducible refine (R1.out _).mono ?_); rintro e w' ⟨rfl, rfl⟩) | (go_at_call 59; (with_reducible refine (R2.out _).mono ?_); rintro e w' ⟨rfl, rfl⟩) | (go_at_call 59; (with_reducible refine (R3.out _).mono ?_); rintro e w' ⟨rfl, rfl⟩) | (go_at_call 59; (with_reducible refine (R4.out _).mono ?_); rintro e w' ⟨rfl, rfl⟩))
          rw [ss0_bits B1.out, ss1_bits B2.out]
          generalize ss0 x1 = z0 at *
          generalize ss1 x2 = z1 at *
          clear R1 R2 R3 R4 B1 B2 B3 B4
          have c3 := D3.out
          have c4 := D4.out
          have s16 : IntKind.i64.wrap ((n : Int) - 16) = ((n - 16 : Nat) : Int) := (IntWalk.i64_in _ (by omega)).trans (by omega)
          have s7 : IntKind.i64.wrap ((n : Int) - 7) = ((n - 7 : Nat) : Int) := (IntWalk.i64_in _ (by omega)).trans (by omega)
          have l16 : ((n - 16 : Nat) : Int) < 80 := by omega
          have l7 : ((n - 7 : Nat) : Int) < 80 := by omega
          have c3' : ({ heap := wq.heap, tape := wq.tape, drawn := wq.drawn + 1, os := wq.os, output := wq.output } : World).cell? ⟨w.heap.size + 1 + 1, n - 16, none⟩ = some (.int .u64 (x3 : Int)) := c3
          have c4' : ({ heap := wq.heap, tape := wq.tape, drawn := wq.drawn + 1, os := wq.os, output := wq.output } : World).cell? ⟨w.heap.size + 1 + 1, n - 7, none⟩ = some (.int .u64 (x4 : Int)) := c4
          go_still_tail 15, (by kernel_rfl)
          have HQd : Hid (Sc w.heap.size w blk (SN (n - 16)) { heap := wq.heap, tape := wq.tape, drawn := wq.drawn + 1, os := wq.os, output := wq.output }) := HQ.out.drewN 1
          clear c3 c4 c3' c4' s16 s7 l16 l7 HQ D3 D4
          generalize ({ heap := wq.heap, tape := wq.tape, drawn := wq.drawn + 1, os := wq.os, output := wq.output } : World) = wd at *
          have hlen := HN.out (n - 16)
          refine wpList_store_one rfl 25 (.tmp 67) (.tmp 66) rfl (w.heap.size + 2) n rfl .u64 _ rfl 93 _ HQd.out.b3 size25 (by rw [part_size _ _ (by omega)]; omega) ?_
          intro w3 hh3 hg3 hz3
          rw [add3, ← HV.out] at hh3
          have HS3 : Hid (Sc w.heap.size w blk (SN (n + 1 - 16)) w3) := by
            rw [show n + 1 - 16 = n - 16 + 1 from by omega, HU.out]
            exact HQd.out.snoc _ (by omega) hg3 (by rw [show (SN (n - 16)).length = n from by omega]; exact hh3)
          clear hh3 hg3 hz3 hlen HQd
          go_wp2
          go_roundw
          case rel =>
            repeat apply Exists.intro
            exact ⟨⟨n + 1, by omega, by omega, by go_num, HS3.out⟩, rfl⟩
          case measure => simp [intOf]; omega
        · obtain rfl : n = 80 := by omega
          clear hlt hn1 hn2
          have HF : Hid (wr.heap[w.heap.size + 2]? = some (.cells (ucs R).toArray 93 (0, 0))) := by
            have := H1.out.b3
            rw [show part (SN (80 - 16)) 80 = (ucs (SN 64)).toArray from by
              have h80 : (SN 64).length = 80 := HN.out 64
              unfold part
              rw [show 80 - 16 = 64 from rfl, h80]
              simp] at this
            rw [HD.out]
            exact this
          have HR : Hid (R.length = 80) := by rw [HD.out, HN.out]; exact rfl
          have HC : Hid (∀ i u, (ucs R)[i]? = some u → wr.cell? ⟨w.heap.size + 2, 0 + i, none⟩ = some u) := fun i u hu => by
            rw [Nat.zero_add]
            exact row_cells HF.out i u (by simpa using hu)
          have HSz : Hid ((Try.prog.info? 93).map (·.size) = some (ucs R).length) := by rw [size93, ucs_len, HR.out]; exact rfl
          have HSa : Hid ((Try.prog.info? 93).map (·.size) = some (ucs R).toArray.size) := by rw [HSz.out]; exact rfl
          have HZ := Lib.hid (show (ucs R).toArray.size = (zw 80).size from by simp [ucs_len, HR.out, zw])
          have HB2 := Lib.hid H1.out.b2
          have HLT := H1.out.lt
          have HBL := Lib.hid H1.out.bel
          clear HT HN HU HD HF H1
          go_wp2_with (first | ((with_reducible show wpList _ _ _ (⟨_, .load 93 (.tmp 3), _, _, _, _⟩ :: _) _ _); refine wpList_load_arr rfl 93 (.tmp 3) rfl (w.heap.size + 2) 0 rfl (ucs R) HC.out _ under93 rfl HSz.out ?_) | ((with_reducible show wpList _ _ _ (⟨none, .store 93 (.tmp 2) (.tmp 68), _, _, _, _⟩ :: _) _ _); refine wpList_store_all rfl 93 (.tmp 2) (.tmp 68) rfl (w.heap.size + 1) rfl (ucs R).toArray rfl 93 (zw 80) HB2.out HSa.out HZ.out (ucs_one _) ?_; intro w3 hh3 hg3 hz3))
          have H3 := Lib.hid hh3
          have G3 := Lib.hid hg3
          clear hh3 hg3
          go_wp2
          refine bodyPost_ret (results_cell_row rfl _ _ (w.heap.size + 1) 93 (ucs R).toArray _ _ rfl H3.out under93 rfl HSa.out) rfl ?_
          exact ⟨rfl, HBL.out.grown G3.out (by omega) (fun r hr => by injection hr; omega)⟩
end Go.Proofs.Ytkglicidjdifkaa
