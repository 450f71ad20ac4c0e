/- The iterator over the parts of an image. No statement is proved here. -/
import Derived.RangeFuncBox
import Derived.RangeFuncLeaves
import Derived.RangeFuncNested
import Derived.Shelf.Abstract
import Derived.WalkKit
import Derived.OwnWalkIn
import Derived.TacticsInMore
import Derived.LoopNIn
import Derived.LoopIn
import Derived.Test.YtfhjcfoecmbhkaaDC
namespace Go.Proofs.Ytfhjcfoecmbhkaa
open Go.RowKit Go.Shelf
set_option linter.unusedVariables false
set_option linter.unusedSimpArgs false
attribute [local go_sem] Oper.semAt_some

/-- The first k parts of N. -/
def upto (N k : Nat) : List (Fin N) := (List.finRange N).take k
theorem upto_succ {N k : Nat} (h : k < N) : upto N (k + 1) = upto N k ++ [⟨k, h⟩] := by
  unfold upto
  rw [List.take_succ_eq_append_getElem (by simpa using h)]
  simp
theorem upto_len {N k : Nat} (h : k ≤ N) : (upto N k).length = k := by simp [upto, h]
theorem upto_all (N : Nat) : upto N N = List.finRange N := by simp [upto, List.take_of_length_le]

theorem elem27 : Try.prog.elem 27 = 5 := by kernel_rfl
theorem sz27 (W : World) : (sizeOf (Try.prog.elem 27)).run Try.prog W = .ok 1 W := by
  obtain ⟨i0, hi, _, hz, _⟩ := info_parts info5
  rw [elem27]
  simp [sizeOf, typeInfo, hi, hz]
theorem u27 : Try.prog.underlying 27 = some (.slice (Try.prog.elem 27)) := by rw [elem27]; exact under27
theorem slice_from (b o N cap k : Nat) (hk : k < N) (hN : N ≤ 16384) (hc : 256 * N ≤ cap) (W : World) :
    (Instr.sliceAt 27 (.slice (some ⟨b, o, none⟩) (256 * N) cap) (some (.int .i64 (256 * (k : Int)))) none none).run Try.prog W = .ok (.slice (some ⟨b, o + 256 * k, none⟩) (256 * N - 256 * k) (cap - 256 * k)) W := by
  have e : (256 * (k : Int)) = ((256 * k : Nat) : Int) := by omega
  have h1 : ¬ cap = 256 * k := by omega
  rw [e, run_sliceAt_slice _ _ _ _ _ _ u27, run_slice_l _ _ _ _ _ u27 .i64 _ (by omega) (by omega), sz27]
  simp [Result.andThen, sliced, h1, Addr.add]
  have t1 : (256 * (k : Int)).toNat = 256 * k := by omega
  rw [t1, if_neg h1]
  refine ⟨?_, rfl, rfl⟩
  split
  · have : k = 0 := by omega
    subst this
    rfl
  · rfl
theorem slice_part (b o N cap k : Nat) (hk : k < N) (hN : N ≤ 16384) (hc : 256 * N ≤ cap) (W : World) :
    (Instr.sliceAt 27 (.slice (some ⟨b, o, none⟩) (256 * N) cap) (some (.int .i64 (256 * (k : Int)))) (some (.int .i64 (256 * (k : Int) + 256))) (some (.int .i64 (256 * (k : Int) + 256)))).run Try.prog W = .ok (.slice (some ⟨b, o + 256 * k, none⟩) 256 256) W := by
  have e : (256 * (k : Int)) = ((256 * k : Nat) : Int) := by omega
  have e2 : (256 * (k : Int)) + 256 = ((256 * k + 256 : Nat) : Int) := by omega
  rw [e2, e, run_sliceAt_slice _ _ _ _ _ _ u27, run_slice_lhm _ _ _ _ _ u27 .i64 .i64 .i64 _ _ _ (by omega) (by omega) (by omega) (by omega), sz27]
  simp [Result.andThen, sliced, Addr.add]
  have t1 : (256 * (k : Int)).toNat = 256 * k := by omega
  have t2 : (256 * (k : Int) + 256).toNat = 256 * k + 256 := by omega
  rw [t1, t2, if_neg (by omega)]
  refine ⟨?_, by omega⟩
  split
  · have : k = 0 := by omega
    subst this
    rfl
  · rfl
/-- Two blocks are as they were. -/
def Kp2 (x y : Nat) (W W' : World) : Prop := W'.heap[x]? = W.heap[x]? ∧ W'.heap[y]? = W.heap[y]?
theorem Kp2.refl (x y : Nat) (W : World) : Kp2 x y W W := ⟨rfl, rfl⟩
theorem Kp2.trans {x y : Nat} {A B C : World} (h : Kp2 x y A B) (k : Kp2 x y B C) : Kp2 x y A C := ⟨k.1.trans h.1, k.2.trans h.2⟩
theorem Kp2.drew {x y : Nat} {A B : World} (h : Kp2 x y A B) : Kp2 x y A B.drew := h
theorem Kp2.cell1 {x y : Nat} {A B : World} (h : Kp2 x y A B) : B.cell? ⟨x, 0, none⟩ = A.cell? ⟨x, 0, none⟩ := World.cell?_of_block (a := ⟨x, 0, none⟩) h.1
theorem Kp2.cell2 {x y : Nat} {A B : World} (h : Kp2 x y A B) : B.cell? ⟨y, 0, none⟩ = A.cell? ⟨y, 0, none⟩ := World.cell?_of_block (a := ⟨y, 0, none⟩) h.2
def valOf' : Value → Int
  | .int _ z => z
  | _ => 0
set_option maxRecDepth 100000 in
set_option maxHeartbeats 2000000 in
theorem chunk1_in (n : Nat) (hn : 1 ≤ n) (l Bs Bn b o N cap : Nat) (hcap : 256 * N ≤ cap) (hcm : cap ≤ maxLen) (hN : N ≤ 16384) (J Jx : List (Fin N) → World → Prop)
    (hY : ∀ pre x W, J pre W → pre.length < N → YieldAt Fence.wide (n - 1) Try.prog l #[.slice (some ⟨b, o + 256 * x.1, none⟩) 256 256] W fun e W' =>
      (e = .returned (.bool true) ∧ J (pre ++ [x]) W' ∧ Kp2 Bs Bn W W') ∨ (e = .returned (.bool false) ∧ Jx (pre ++ [x]) W'))
    (W : World) (hBs : W.cell? ⟨Bs, 0, none⟩ = some (.slice (some ⟨b, o, none⟩) (256 * N) cap)) (hBn : W.cell? ⟨Bn, 0, none⟩ = some (.int .i64 256)) (h0 : J [] W) (hJd : ∀ s W, J s W → J s W.drew) :
    CallsIn Fence.wide n Try.prog 51 #[.func (.yield l) #[] #[], .pointer (some ⟨Bs, 0, none⟩), .pointer (some ⟨Bn, 0, none⟩)] W fun e W' => (∃ v, e = .returned v) ∧
      ((∃ ys, ys = List.finRange N ∧ J ys W') ∨ (∃ pre, True ∧ Jx pre W')) := by
  refine callsIn_of_wp Try.func51 rfl trivial ?_ rfl
  simp only [Try.ntmps51, List.size_toArray, List.length_cons, List.length_nil, Nat.reduceAdd, Nat.reduceSub, Array.replicate_succ, Array.replicate_zero, List.push_toArray, List.append_toArray, List.nil_append, List.cons_append]
  gi_wp2
  gi_loopw [4] (fun i wr => ∃ k : Nat, k ≤ N ∧ i = .int .i64 ((256 * k : Nat) : Int) ∧ J (upto N k) wr ∧ Kp2 Bs Bn W wr)
    (fun i _ => 256 * N - (valOf' i).toNat)
  case atStart => exact ⟨0, Nat.zero_le _, rfl, h0, Kp2.refl _ _ _⟩
  case round =>
    obtain ⟨k, hk, rfl, hJs, hnx⟩ := hrel
    have c0 := hnx.cell1.trans hBs
    have c1 := hnx.cell2.trans hBn
    by_cases hlt : k < N
    · have h1 : ((256 * k : Nat) : Int) < ((256 * N : Nat) : Int) := by omega
      gi_wp2
      refine wpIn_wide.2 ?_
      have c0' : ({ heap := wr.heap, tape := wr.tape, drawn := wr.drawn + 1, os := wr.os, output := wr.output } : World).cell? ⟨Bs, 0, none⟩ = some (.slice (some ⟨b, o, none⟩) (256 * N) cap) := c0
      have c1' : ({ heap := wr.heap, tape := wr.tape, drawn := wr.drawn + 1, os := wr.os, output := wr.output } : World).cell? ⟨Bn, 0, none⟩ = some (.int .i64 256) := c1
      have hsl := slice_from b o N cap k hlt hN hcap
      have hmin : ¬ ((((256 * N - 256 * k : Nat)) : Int) < 256) := by omega
      have hpt := slice_part b o N cap k hlt hN hcap
      have HB := Lib.hid hnx
      have HJ := Lib.hid hJs
      obtain ⟨fn, tmps, assign, body, hy, hR⟩ := hY _ ⟨k, hlt⟩ _ (hJd _ _ hJs) (by rw [upto_len hk]; exact hlt)
      have hwk : wrap64 (256 * (k : Int) + 256) = 256 * (k : Int) + 256 := IntWalk.wrap64_in _ (by omega)
      clear hnx hJs
      refine wp_region_still_lit (by kernel_rfl) (by kernel_rfl) ?_
      repeat still_step
      refine wpStill_nil ?_
      gi_wp2
      refine hR.mono ?_
      rintro e W3 (⟨rfl, hJ3, hk3⟩ | ⟨rfl, hJx3⟩)
      · have c3 : W3.cell? ⟨Bn, 0, none⟩ = some (.int .i64 256) := hk3.cell2.trans c1'
        have HJ3 := Lib.hid hJ3
        have HB3 := Lib.hid (HB.out.drew.trans hk3)
        clear hJ3 hk3 c0 c1 c0' c1' hy hR hsl hpt
        gi_wp2
        go_roundw
        case rel => exact ⟨k + 1, by omega, by simp; omega, by rw [upto_succ hlt]; exact HJ3.out, HB3.out⟩
        case measure => simp [valOf']; omega
      · gi_wp2
        refine bodyPost_ret (results_none rfl _ _ _) rfl ?_
        exact ⟨⟨_, rfl⟩, .inr ⟨_, trivial, hJx3⟩⟩
    · obtain rfl : k = N := by omega
      gi_wp2
      go_end0
      exact ⟨⟨_, rfl⟩, .inl ⟨_, (upto_all k), hJs⟩⟩

set_option maxHeartbeats 1000000 in
/-- slices.Chunk. -/
theorem chunk_in (n : Nat) (A : Option Addr) (len cap : Nat) (w : World) :
    CallsIn Fence.wide n Try.prog 46 #[.slice A len cap, .int .i64 256] w fun e w' => e = .returned (.func (.func 51) #[] #[.pointer (some ⟨w.heap.size, 0, none⟩), .pointer (some ⟨w.heap.size + 1, 0, none⟩)]) ∧ w' = (w.alloc (.cells #[.slice A len cap] 27)).alloc (.cells #[.int .i64 256] 3) := by
  refine callsIn_of_wp Try.func46 rfl trivial ?_ rfl
  simp only [Try.ntmps46, List.size_toArray, List.length_cons, List.length_nil, Nat.reduceAdd, Nat.reduceSub, Array.replicate_succ, Array.replicate_zero, List.push_toArray, List.append_toArray, List.nil_append, List.cons_append]
  gi_wp2
  go_ret
  exact ⟨rfl, rfl⟩

/-- It gives all parts, in order. -/
theorem chunk_stops (n : Nat) (hn : 1 ≤ n) (Bs Bn b o N cap : Nat) (hcap : 256 * N ≤ cap) (hcm : cap ≤ maxLen) (hN : N ≤ 16384) (w : World) (hBs : w.cell? ⟨Bs, 0, none⟩ = some (.slice (some ⟨b, o, none⟩) (256 * N) cap)) (hBn : w.cell? ⟨Bn, 0, none⟩ = some (.int .i64 256)) (hs0 : Bs < w.heap.size) (hn0 : Bn < w.heap.size) :
    SeqStopsK Fence.wide n Try.prog 51 #[.pointer (some ⟨Bs, 0, none⟩), .pointer (some ⟨Bn, 0, none⟩)] (fun x : Fin N => #[.slice (some ⟨b, o + 256 * x.1, none⟩) 256 256]) (Kp2 Bs Bn) (fun ys => ys = List.finRange N) (fun _ => True) N w := fun l J Jx W hW hJ _ hY h0 => by
  refine (chunk1_in n hn l Bs Bn b o N cap hcap hcm hN J Jx hY W ((hW.cell (p := ⟨Bs, 0, none⟩) hs0).trans hBs) ((hW.cell (p := ⟨Bn, 0, none⟩) hn0).trans hBn) h0 ?_).mono ?_
  · exact fun s W1 hs => hJ s W1 W1.drew none hs ⟨rfl, rfl, rfl, Nat.le_refl _, fun _ _ _ => rfl⟩ (fun r e => by cases e)
  · rintro e W' ⟨he, ⟨ys, rfl, hj⟩ | ⟨pre, _, hj⟩⟩
    · exact ⟨he, .inl ⟨_, rfl, hj⟩⟩
    · exact ⟨he, .inr ⟨_, trivial, hj⟩⟩
end Go.Proofs.Ytfhjcfoecmbhkaa
