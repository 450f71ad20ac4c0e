/- The field's pow. No statement is proved here. -/
import Derived.Test.YtgdimnbdnepbgaaFQ
namespace Go.Proofs.Ytgdimnbdnepbgaa
open Go.RowKit
set_option linter.unusedVariables false
set_option maxRecDepth 40000

theorem under60 : Try.prog.underlying 60 = some (.array 5 24) := by kernel_rfl
theorem size60 : (Try.prog.info? 60).map (·.size) = some 5 := by kernel_rfl
theorem zero60 (w : World) : (zeroValue 60).run Try.prog w = .ok (.agg (zw 5)) w := by kernel_rfl

/-- The memory of pow: what is left of the exponent, and the power so far. -/
structure Pw (w : World) (gq gr : Nat) (q o : List Nat) (w' : World) : Prop where
  q : QAt w' gq q
  r : WAt w' gr o
  hq : w.heap.size ≤ gq
  hr : w.heap.size ≤ gr
  ne : gq ≠ gr
  bel : Below w.heap.size w w'
theorem Pw.mul {w : World} {gq gr : Nat} {q o o' : List Nat} {w' w'' : World} (h : Pw w gq gr q o w') (hr : WAt w'' gr o') (hk : Keeps (· = gr) w' w'') : Pw w gq gr q o' w'' :=
  ⟨h.q.keeps hk (by show ¬ _ = _; exact h.ne), hr, h.hq, h.hr, h.ne, h.bel.trans (hk.below h.bel.size (fun k hlt => by show ¬ k = gr; have := h.hr; omega))⟩
theorem Pw.shift {w : World} {gq gr : Nat} {q q' o : List Nat} {w' w'' : World} (h : Pw w gq gr q o w') (hq : QAt w'' gq q') (hk : Keeps (· = gq) w' w'') : Pw w gq gr q' o w'' :=
  ⟨hq, h.r.keeps hk (by show ¬ _ = _; exact fun e => h.ne e.symm), h.hq, h.hr, h.ne, h.bel.trans (hk.below h.bel.size (fun k hlt => by show ¬ k = gq; have := h.hq; omega))⟩

/-- The state of the loop in numbers: E shifted n times, the power so far. -/
structure Pn (a E n : Nat) (q o : List Nat) : Prop where
  q64 : Q64 q
  bnd : Bnd 4503599627370496 o
  num : ∃ e, E * 2 ^ n = e * 115792089237316195423570985008687907853269984665640564039457584007913129639936 + val4 q ∧ val5 o % 57896044618658097711785492504343953926634992332820282019728792003956564819949 = a ^ e % 57896044618658097711785492504343953926634992332820282019728792003956564819949
theorem Pn.zero {a n E : Nat} {q al o : List Nat} (h : Pn a E n q o) (ha : Bnd 4503599627370496 al) (hv : val5 al % 57896044618658097711785492504343953926634992332820282019728792003956564819949 = a % 57896044618658097711785492504343953926634992332820282019728792003956564819949) (ht : top4 q = 0) : Pn a E (n + 1) (shl4 q) (mulL o o) := by
  obtain ⟨hq, hb, e, h1, h2⟩ := h
  obtain ⟨s1, s2, s3⟩ := shl4_val q hq
  obtain ⟨m1, m2⟩ := mul_val o o hb hb
  refine ⟨s2, m2, 2 * e, ?_, ?_⟩
  · rw [Nat.pow_succ, ← Nat.mul_assoc, h1]
    rw [ht] at s1
    omega
  · rw [m1, Nat.mul_mod, h2, ← Nat.mul_mod, ← Nat.pow_add, Nat.two_mul]
theorem Pn.one {a n E : Nat} {q al o : List Nat} (h : Pn a E n q o) (ha : Bnd 4503599627370496 al) (hv : val5 al % 57896044618658097711785492504343953926634992332820282019728792003956564819949 = a % 57896044618658097711785492504343953926634992332820282019728792003956564819949) (ht : top4 q = 1) : Pn a E (n + 1) (shl4 q) (mulL (mulL o o) al) := by
  obtain ⟨hq, hb, e, h1, h2⟩ := h
  obtain ⟨s1, s2, s3⟩ := shl4_val q hq
  obtain ⟨m1, m2⟩ := mul_val o o hb hb
  obtain ⟨k1, k2⟩ := mul_val (mulL o o) al m2 ha
  refine ⟨s2, k2, 2 * e + 1, ?_, ?_⟩
  · rw [Nat.pow_succ, ← Nat.mul_assoc, h1]
    rw [ht] at s1
    omega
  · have hh : val5 o * val5 o % 57896044618658097711785492504343953926634992332820282019728792003956564819949 = a ^ e * a ^ e % 57896044618658097711785492504343953926634992332820282019728792003956564819949 := by rw [Nat.mul_mod, h2, ← Nat.mul_mod]
    rw [k1, Nat.mul_mod, m1, hh, hv, ← Nat.mul_mod, Nat.pow_succ, Nat.two_mul, Nat.pow_add]
theorem Pn.done {a E : Nat} {q o : List Nat} (h : Pn a E 256 q o) (hE : E < 115792089237316195423570985008687907853269984665640564039457584007913129639936) : val5 o % 57896044618658097711785492504343953926634992332820282019728792003956564819949 = a ^ E % 57896044618658097711785492504343953926634992332820282019728792003956564819949 := by
  obtain ⟨hq, hb, e, h1, h2⟩ := h
  have h3 := val4_lt q hq
  rw [show (2 : Nat) ^ 256 = 115792089237316195423570985008687907853269984665640564039457584007913129639936 from rfl] at h1
  have : e = E := by omega
  rw [h2, this]
theorem Pn.start {a E : Nat} {q : List Nat} (hq : Q64 q) (hE : val4 q = E) : Pn a E 0 q [1, 0, 0, 0, 0] :=
  ⟨hq, bnd5' (by omega), 0, by rw [hE]; omega, rfl⟩

/-- What pow leaves. -/
def PowAt (g a E : Nat) (w : World) (e : Ending) (w' : World) : Prop :=
  e = .returned (.tuple #[]) ∧ ∃ o, WAt w' g o ∧ Bnd 4503599627370496 o ∧ val5 o % 57896044618658097711785492504343953926634992332820282019728792003956564819949 = a ^ E % 57896044618658097711785492504343953926634992332820282019728792003956564819949 ∧ Keeps (· = g) w w'

set_option maxHeartbeats 2000000 in
theorem pow_core (g ga ge a E : Nat) (o al q : List Nat) (l : List UInt8) (w : World) (HW : Hid (WAt w g o)) (HA : Hid (WAt w ga al)) (HE : Hid (NumAt w ge l))
    (M0 : Hid (∀ w', NumAt w' ge l → Calls Try.prog 92 #[.pointer (some ⟨ge, 0, none⟩)] w' (Gives (.agg (ucs q).toArray) w'))) (HQ : Hid (Q64 q)) (HQE : Hid (val4 q = E)) (HEL : Hid (E < 115792089237316195423570985008687907853269984665640564039457584007913129639936))
    (HB : Hid (Bnd 4503599627370496 al)) (HV : Hid (val5 al % 57896044618658097711785492504343953926634992332820282019728792003956564819949 = a % 57896044618658097711785492504343953926634992332820282019728792003956564819949)) :
    Calls Try.prog 76 #[.pointer (some ⟨g, 0, none⟩), .pointer (some ⟨ga, 0, none⟩), .pointer (some ⟨ge, 0, none⟩)] w (PowAt g a E w) := by
  have HO : Hid (g < w.heap.size) := HW.out.lt
  have HOA : Hid (ga < w.heap.size) := HA.out.lt
  go_enter Try.func76, Try.ntmps76
  go_wp2_with fail
  refine (M0.out _ HE.out).mono ?_
  rintro e w1 ⟨rfl, hb⟩
  have HB1 := Lib.hid hb
  clear hb M0 HE
  go_wp2_with (first | (with_reducible refine wpList_alloc_row rfl 91 rfl (.agg (zw 4)) zero91 ?_; intro w2 hh2 hz2 hg2; have HZ2 := Lib.hid hz2; have HG2 := Lib.hid hg2; have HH2 := Lib.hid hh2; clear hz2 hg2 hh2) | ((with_reducible show wpList _ _ _ (⟨none, .store 91 (.tmp 6) (.tmp 9), _, _, _, _⟩ :: _) _ _); go_must (refine wpList_store_all rfl 91 (.tmp 6) (.tmp 9) rfl w1.heap.size rfl (ucs q).toArray rfl 91 _ HH2.out (by rw [List.size_toArray, ucs_len, HQ.out.1]; exact size91) (by rw [List.size_toArray, ucs_len, HQ.out.1]; rfl) (ucs_one _) ?_; intro w3 hh3 hg3 hz3; have HH3 := Lib.hid hh3; have HG3 := Lib.hid hg3; have HZ3 := Lib.hid hz3; clear hh3 hg3 hz3)) | (with_reducible refine wpList_alloc_row rfl 60 rfl (.agg (zw 5)) zero60 ?_; intro w4 hh4 hz4 hg4; have HZ4 := Lib.hid hz4; have HG4 := Lib.hid hg4; have HH4 := Lib.hid hh4; clear hz4 hg4 hh4) | ((with_reducible show wpList _ _ _ (⟨none, .store 60 (.tmp 7) (.tmp 10), _, _, _, _⟩ :: _) _ _); go_must (refine wpList_store_all rfl 60 (.tmp 7) (.tmp 10) rfl w3.heap.size rfl (ucs [1, 0, 0, 0, 0]).toArray rfl 60 _ HH4.out size60 rfl (ucs_one _) ?_; intro w5 hh5 hg5 hz5; have HH5 := Lib.hid hh5; have HG5 := Lib.hid hg5; clear hh5 hg5 hz5)))
  have S : Hid (Pw w w1.heap.size w3.heap.size q [1, 0, 0, 0, 0] w5) := by
    have hs := HB1.out.size
    have e2 := HZ2.out
    have e3 := HZ3.out
    have k3 : Below w.heap.size w w3 := (HB1.out.grown HG2.out hs (by simp)).grown HG3.out (by omega) (fun r hr => by injection hr; omega)
    have k5 : Below w.heap.size w w5 := (k3.grown HG4.out (by omega) (by simp)).grown HG5.out (by have := HZ4.out; omega) (fun r hr => by injection hr; omega)
    refine ⟨⟨HQ.out.1, 91, ?_⟩, ⟨rfl, 60, HH5.out⟩, hs, by omega, by omega, k5⟩
    exact ((HG5.out.block _ (by have := HZ4.out; omega) (by simp; omega)).trans (HG4.out.block _ (by omega) (by simp))).trans HH3.out
  have HN : Hid (Pn a E 0 q [1, 0, 0, 0, 0]) := Pn.start HQ.out HQE.out
  clear HB1 HZ2 HG2 HH2 HZ3 HG3 HH3 HZ4 HG4 HH4 HG5 HH5 HQ HQE
  generalize w1.heap.size = gq at *
  generalize w3.heap.size = gr at *
  go_loopw [11] (fun i wr => ∃ (n : Nat) (q' o' : List Nat), n ≤ 256 ∧ i = .int .i64 n ∧ Pn a E n q' o' ∧ Pw w gq gr q' o' wr) (fun i _ => 256 - (intOf i).toNat)
  case atStart => exact ⟨0, q, _, by omega, rfl, HN.out, S.out⟩
  case round =>
    obtain ⟨n, q', o', hn, rfl, hpn, hpw⟩ := hrel
    have P := Lib.hid hpn
    have H := Lib.hid hpw
    clear hpn hpw S HN
    by_cases hlt : n < 256
    · have hni : (n : Int) < 256 := by omega
      go_wp2_with fail
      refine (mul_any gr gr gr o' o' o' _ H.out.r H.out.r H.out.r P.out.bnd P.out.bnd).mono ?_
      rintro e x1 ⟨rfl, hr, hk⟩
      have H1 := Lib.hid (H.out.mul hr hk)
      clear hr hk H
      go_wp2_with fail
      refine (shift_any gq q' _ H1.out.q P.out.q64).mono ?_
      rintro e x2 ⟨rfl, hr, hk⟩
      have H2 := Lib.hid (H1.out.shift hr hk)
      clear hr hk H1
      have ht := (shl4_val q' P.out.q64).2.2
      by_cases ht1 : top4 q' = 1
      · have hd : decide (top4 q' = 1) = true := by simp [ht1]
        have P1 := Lib.hid (P.out.one HB.out HV.out ht1)
        have HBN := Lib.hid (mul_val o' o' P.out.bnd P.out.bnd).2
        rw [hd]
        clear hd ht ht1 P
        generalize mulL o' o' = o2 at *
        go_wp2_with fail
        have HA2 : Hid (WAt x2 ga al) := HA.out.below H2.out.bel HOA.out
        refine (mul_any gr gr ga o2 o2 al _ H2.out.r H2.out.r HA2.out HBN.out HB.out).mono ?_
        rintro e x3 ⟨rfl, hr, hk⟩
        have H3 := Lib.hid (H2.out.mul hr hk)
        clear hr hk H2 HA2 HBN
        go_wp2_with fail
        exact ⟨⟨n + 1, _, _, by omega, by go_num, P1.out, H3.out⟩, by simp [intOf]; omega⟩
      · have hd : decide (top4 q' = 1) = false := by simp [ht1]
        have P1 := Lib.hid (P.out.zero HB.out HV.out (by omega))
        rw [hd]
        clear hd ht ht1 P
        go_wp2_with fail
        exact ⟨⟨n + 1, _, _, by omega, by go_num, P1.out, H2.out⟩, by simp [intOf]; omega⟩
    · obtain rfl : n = 256 := by omega
      have HV2 := Lib.hid (P.out.done HEL.out)
      have HB2 := Lib.hid P.out.bnd
      clear P
      obtain ⟨hl, tr, htr⟩ := H.out.r
      have HT := Lib.hid htr
      have HL := Lib.hid hl
      clear hl htr
      obtain ⟨tg, htg⟩ := (HW.out.below H.out.bel HO.out).2
      have HTG := Lib.hid htg
      clear htg
      have HWL : Hid (o.length = 5) := HW.out.1
      go_wp2_with (first | ((with_reducible show wpList _ _ _ (⟨_, .load 60 (.tmp 7), _, _, _, _⟩ :: _) _ _); go_must (refine wpList_load_arr rfl 60 (.tmp 7) rfl gr 0 rfl (ucs o') (fun i u hu => by rw [Nat.zero_add]; exact row_cells HT.out i u (by simpa using hu)) _ under60 rfl (by rw [ucs_len, HL.out]; exact size60) ?_)) | ((with_reducible show wpList _ _ _ (⟨none, .store 60 (.tmp 20) (.tmp 19), _, _, _, _⟩ :: _) _ _); go_must (refine wpList_store_all rfl 60 (.tmp 20) (.tmp 19) rfl g rfl (ucs o').toArray rfl tg _ HTG.out (by rw [List.size_toArray, ucs_len, HL.out]; exact size60) (by rw [List.size_toArray, List.size_toArray, ucs_len, ucs_len, HL.out, HWL.out]) (ucs_one _) ?_; intro v3 hh3 hg3 hz3; have HH3 := Lib.hid hh3; have HK3 : Hid (Keeps (· = g) w v3) := (Keeps.of_below H.out.bel).trans (Keeps.of_grown hg3 (fun r hr => by injection hr with hr; exact hr.symm)); clear hh3 hg3 hz3)))
      refine bodyPost_end (results_none rfl _ _ _) rfl ?_
      exact ⟨rfl, o', ⟨HL.out, tg, HH3.out⟩, HB2.out, HV2.out, HK3.out⟩

theorem q8s (l : List UInt8) : Q64 [q8 l 0, q8 l 8, q8 l 16, q8 l 24] := q64' ⟨q8_lt _ _, q8_lt _ _, q8_lt _ _, q8_lt _ _⟩
theorem pow_any (g ga ge : Nat) (o al : List Nat) (l : List UInt8) (a : Nat) (w : World) (hw : WAt w g o) (ha : WAt w ga al) (he : NumAt w ge l) (hb : Bnd 4503599627370496 al)
    (hv : val5 al % 57896044618658097711785492504343953926634992332820282019728792003956564819949 = a % 57896044618658097711785492504343953926634992332820282019728792003956564819949) :
    Calls Try.prog 76 #[.pointer (some ⟨g, 0, none⟩), .pointer (some ⟨ga, 0, none⟩), .pointer (some ⟨ge, 0, none⟩)] w (PowAt g a (nv l) w) :=
  pow_core g ga ge a (nv l) o al _ l w hw ha he (Lib.hid fun w' h => split_any ge l w' h) (q8s l) (Lib.hid rfl) (nv_lt l) hb hv
end Go.Proofs.Ytgdimnbdnepbgaa
