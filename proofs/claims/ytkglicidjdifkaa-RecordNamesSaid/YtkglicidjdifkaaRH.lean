/- What is ahead of a record's data, read. No statement is proved here. -/
import Derived.Test.YtkglicidjdifkaaRG
namespace Go.Proofs.Ytkglicidjdifkaa
open Go.RowKit
set_option linter.unusedVariables false
set_option linter.unusedSimpArgs false
/-- Kind, number of bytes, where they begin, and an error. -/
def headS (b : List UInt8) : Nat × Nat × Nat × Nat :=
  match b.take 10 with
  | [] => (0, 0, 0, 5)
  | x :: t => if x.toNat = 0 then (0, 0, 0, 4) else if (decN t).2.2 ≠ 0 then (0, 0, 0, (decN t).2.2) else if 8192 < (decN t).1 then (0, 0, 0, 4) else (x.toNat, (decN t).1, 1 + (decN t).2.1, 0)
theorem wsz1 : wsz 1 = 1 := rfl
theorem take_min (b : List UInt8) : b.take (min b.length 10) = b.take 10 := by
  by_cases h : b.length ≤ 10
  · rw [Nat.min_eq_left h, List.take_length, List.take_of_length_le h]
  · rw [Nat.min_eq_right (by omega)]
theorem results_t4 {fn : Func} {p q r s : Tmp} (h : fn.results = #[.tmp p, .tmp q, .tmp r, .tmp s]) (tmps : Array Value) (P : Program) (w : World) :
    (results fn tmps).run P w = .ok (.tuple #[tmps.getD p undef, tmps.getD q undef, tmps.getD r undef, tmps.getD s undef]) w := by
  simp [results, h]
theorem decN_lt (l : List UInt8) : (decN l).1 < 18446744073709551616 := by
  by_cases h : (decN l).2.2 = 0
  · have := enc_dec l (decN l).1 (decN l).2.1 (by rw [← h])
    omega
  · cases l with
    | nil => simp [decN]
    | cons y t =>
      rw [decN_cons] at h ⊢
      split
      · simp
      · split
        · simp
        · rename_i h1 h2
          rw [if_neg h1, if_neg h2] at h
          exact absurd rfl h
/-- What it gives. -/
def HeadGives (w : World) (q : Nat × Nat × Nat × Nat) (e : Ending) (w' : World) : Prop := e = .returned (.tuple #[.int .u8 (q.1 : Int), .int .i64 (q.2.1 : Int), .int .i64 (q.2.2.1 : Int), .int .i64 (q.2.2.2 : Int)]) ∧ Below w.heap.size w w'
set_option maxRecDepth 100000 in
set_option maxHeartbeats 2000000 in
theorem readHead_any (w : World) (S : Nat → Prop) (A : Option Addr) (n c : Nat) (b : List UInt8) (hs : Src w S A n (bcs b)) (hS : ∀ b, S b → b < w.heap.size) (hc : n ≤ c ∧ c ≤ maxLen) (hn : n ≤ 1000000000) :
    Calls Try.prog 35 #[.slice A n c] w (HeadGives w (headS b)) := by
  have hbl := src_len hs
  have hq : headS b = match b.take 10 with | [] => (0, 0, 0, 5) | x :: t => if x.toNat = 0 then (0, 0, 0, 4) else if (decN t).2.2 ≠ 0 then (0, 0, 0, (decN t).2.2) else if 8192 < (decN t).1 then (0, 0, 0, 4) else (x.toNat, (decN t).1, 1 + (decN t).2.1, 0) := rfl
  have hm10 : min n 10 ≤ n := Nat.min_le_left _ _
  have hmi : min (n : Int) 10 = ((min n 10 : Nat) : Int) := by omega
  have hmc : ((min n 10 : Nat) : Int) ≤ (c : Int) := by omega
  have hs2 := hs.take_b (min n 10) hm10
  have htl : (b.take 10).length = min n 10 := by rw [List.length_take, hbl]; omega
  rw [← hbl] at hs2
  rw [take_min] at hs2
  rw [hbl] at hs2
  generalize headS b = q at *
  generalize hl : b.take 10 = l at *
  have hm11 : min n 10 ≤ 10 := Nat.min_le_right _ _
  generalize min n 10 = m at *
  clear hs hl hbl hm10
  have HS2 := Lib.hid hs2
  have HTL := Lib.hid htl
  have HQ := Lib.hid hq
  clear hs2 htl hq
  go_enter Try.func35, Try.ntmps35
  go_wp2_with fail
  refine (read_any w S A m c l HS2.out hS (by omega)).mono ?_
  rintro e1 w1 ⟨g, rfl, hr1, hb1⟩
  have HR1 := Lib.hid hr1
  have HB1 := Lib.hid hb1
  have HG := Lib.hid hr1.lo_le
  have HLE : Hid (l.length ≤ 1000000000) := Lib.hid (by rw [HTL.out]; omega)
  generalize w1.heap.size = hi at *
  clear hr1 hb1
  go_wp2_with fail
  match l with
  | [] =>
    have hw := HR1.out.word HLE.out 1
    rw [wsz1, show takeS [] 0 0 1 = ([], 0, 5) from rfl] at hw
    have HW : Hid (Calls Try.prog 43 #[.pointer (some ⟨g, 0, none⟩), .int .i64 1] w1 (RdGives w1 w.heap.size hi g [] (.int .u64 0) 0 5)) := Lib.hid hw
    clear hw
    have hq2 := HQ.out
    simp only at hq2
    subst hq2
    refine (HW.out).mono ?_
    rintro e2 w2 ⟨rfl, hg2, hr2⟩
    have HB2 := Lib.hid (HB1.out.grown hg2 HB1.out.size (fun r e => by injection e with e; subst e; exact HG.out))
    have HR2 := Lib.hid hr2
    clear hg2 hr2
    go_wp2_with fail
    refine (HR2.out.err).mono ?_
    rintro e3 w3 ⟨rfl, rfl⟩
    go_wp2_with fail
    have hn0 := HR2.out.num HLE.out
    rw [show numS [] 0 5 = (0, 0, 5) from rfl] at hn0
    have HN : Hid (Calls Try.prog 45 #[.pointer (some ⟨g, 0, none⟩)] w2 (RdGives w2 w.heap.size hi g [] (.int .u64 0) 0 5)) := Lib.hid hn0
    clear hn0
    refine (HN.out).mono ?_
    rintro e4 w4 ⟨rfl, hg4, hr4⟩
    have HB4 := Lib.hid (HB2.out.grown hg4 HB2.out.size (fun r e => by injection e with e; subst e; exact HG.out))
    have HR4 := Lib.hid hr4
    clear hg4 hr4
    go_wp2_with fail
    refine (HR4.out.err).mono ?_
    rintro e5 w5 ⟨rfl, rfl⟩
    go_wp2
    refine bodyPost_ret (results_t4 rfl _ _ _) rfl ?_
    exact ⟨rfl, HB4.out⟩
  | x :: t =>
    have hx := x.toNat_lt
    have hw := HR1.out.word HLE.out 1
    rw [wsz1, show takeS (x :: t) 0 0 1 = ([x], 1, 0) from by simp [takeS], show lev [x] = x.toNat from by simp [lev]] at hw
    have HW : Hid (Calls Try.prog 43 #[.pointer (some ⟨g, 0, none⟩), .int .i64 1] w1 (RdGives w1 w.heap.size hi g (x :: t) (.int .u64 (x.toNat : Int)) 1 0)) := Lib.hid hw
    clear hw
    refine (HW.out).mono ?_
    rintro e2 w2 ⟨rfl, hg2, hr2⟩
    have HB2 := Lib.hid (HB1.out.grown hg2 HB1.out.size (fun r e => by injection e with e; subst e; exact HG.out))
    have HR2 := Lib.hid hr2
    clear hg2 hr2
    have hxw : IntKind.u8.wrap (x.toNat : Int) = (x.toNat : Int) := by rw [IntKind.wrap_u8]; omega
    go_wp2_with fail
    refine (HR2.out.err).mono ?_
    rintro e3 w3 ⟨rfl, rfl⟩
    by_cases h0 : x.toNat = 0
    · have hq2 := HQ.out
      simp only [h0, if_true] at hq2
      subst hq2
      have h0' : (x.toNat : Int) = 0 := by omega
      clear hxw
      rw [h0'] at *
      go_wp2
      refine bodyPost_ret (results_t4 rfl _ _ _) rfl ?_
      exact ⟨rfl, HB2.out⟩
    · have h0' : (((x.toNat : Int) == 0) = false) := by rw [u8_zero]; simp [h0]
      have hn0 := HR2.out.num HLE.out
      rw [show numS (x :: t) 1 0 = ((decN t).1, 1 + (decN t).2.1, (decN t).2.2) from rfl] at hn0
      have hlt := decN_lt t
      have hq2 := HQ.out
      simp only [h0, if_false] at hq2
      have hdle : (decN t).2.2 = 0 → (decN t).2.1 ≤ t.length := fun h => (enc_dec t (decN t).1 (decN t).2.1 (by rw [← h])).2.1
      have HTL2 : Hid (t.length + 1 = m) := Lib.hid (by have := HTL.out; simpa using this)
      generalize (decN t).1 = v at *
      generalize (decN t).2.1 = dl at *
      generalize (decN t).2.2 = er at *
      have HN : Hid (Calls Try.prog 45 #[.pointer (some ⟨g, 0, none⟩)] w2 (RdGives w2 w.heap.size hi g (x :: t) (.int .u64 (v : Int)) (1 + dl) er)) := Lib.hid hn0
      clear hn0
      have HQ2 := Lib.hid hq2
      have HDL := Lib.hid hdle
      have HX := Lib.hid hx
      clear hq2 hdle hx
      go_wp2_with fail
      refine (HN.out).mono ?_
      rintro e4 w4 ⟨rfl, hg4, hr4⟩
      have HB4 := Lib.hid (HB2.out.grown hg4 HB2.out.size (fun r e => by injection e with e; subst e; exact HG.out))
      have HR4 := Lib.hid hr4
      clear hg4 hr4
      go_wp2_with fail
      refine (HR4.out.err).mono ?_
      rintro e5 w5 ⟨rfl, rfl⟩
      by_cases he : er = 0
      · subst he
        have hq3 := HQ2.out
        simp only [ne_eq, not_true, if_false] at hq3
        by_cases hv : 8192 < v
        · rw [if_pos hv] at hq3
          subst hq3
          have hv' : (8192 : Int) < (v : Int) := by omega
          go_wp2
          refine bodyPost_ret (results_t4 rfl _ _ _) rfl ?_
          exact ⟨rfl, HB4.out⟩
        · rw [if_neg hv] at hq3
          subst hq3
          have hv' : ¬ ((8192 : Int) < (v : Int)) := by omega
          have hdl := HDL.out rfl
          have hm2 := HTL2.out
          go_wp2_with fail
          refine (HR4.out.left HLE.out).mono ?_
          rintro e6 w6 ⟨rfl, q6, rfl⟩
          have hsub : (m : Int) - ((m - (1 + dl) : Nat) : Int) = ((1 + dl : Nat) : Int) := by omega
          have HSUB := Lib.hid hsub
          clear hsub
          go_wp2
          refine bodyPost_ret (results_t4 rfl _ _ _) rfl ?_
          refine ⟨?_, below_drewN' HB4.out q6⟩
          show Ending.returned (.tuple #[.int .u8 (x.toNat : Int), .int .i64 (v : Int), .int .i64 ((m : Int) - ((m - (1 + dl) : Nat) : Int)), .int .i64 0]) = _
          rw [HSUB.out]
          rfl
      · have hq3 := HQ2.out
        rw [if_pos he] at hq3
        subst hq3
        have he' : (((er : Int) == 0) = false) := by simp; omega
        go_wp2
        refine bodyPost_ret (results_t4 rfl _ _ _) rfl ?_
        exact ⟨rfl, HB4.out⟩
end Go.Proofs.Ytkglicidjdifkaa
