/- The field's read: 32 bytes become five words. No statement is proved here. -/
import Derived.Test.YtgdimnbdnepbgaaFD
namespace Go.Proofs.Ytgdimnbdnepbgaa
open Go.RowKit
set_option linter.unusedVariables false
set_option maxRecDepth 40000

/-- Words o lie in row g. -/
def WAt (w : World) (g : Nat) (o : List Nat) : Prop := o.length = 5 ∧ ∃ t, w.heap[g]? = some (.cells (ucs o).toArray t (0, 0))
/-- What a method that changes the words at g leaves. -/
def Sets (g : Nat) (o : List Nat) (w : World) (e : Ending) (w' : World) : Prop := e = .returned (.tuple #[]) ∧ WAt w' g o ∧ Keeps (· = g) w w'
theorem WAt.lt {w : World} {g : Nat} {o : List Nat} (h : WAt w g o) : g < w.heap.size := by
  obtain ⟨_, t, ht⟩ := h
  exact (Array.getElem?_eq_some_iff.1 ht).1
theorem WAt.below {w w' : World} {g B : Nat} {o : List Nat} (h : WAt w g o) (hb : Below B w w') (hg : g < B) : WAt w' g o := by
  obtain ⟨hl, t, ht⟩ := h
  exact ⟨hl, t, (hb.block g hg).trans ht⟩
theorem WAt.grown {w w' : World} {g : Nat} {o : List Nat} {row : Option Nat} (h : WAt w g o) (hb : w.grownBy w' row) (hg : some g ≠ row) : WAt w' g o := by
  have := h.lt
  obtain ⟨hl, t, ht⟩ := h
  exact ⟨hl, t, (hb.block g this hg).trans ht⟩
theorem WAt.keeps {G : Nat → Prop} {w w' : World} {g : Nat} {o : List Nat} (h : WAt w g o) (hk : Keeps G w w') (hg : ¬ G g) : WAt w' g o := by
  have := h.lt
  obtain ⟨hl, t, ht⟩ := h
  exact ⟨hl, t, (hk.block g this hg).trans ht⟩
theorem NumAt.keeps {G : Nat → Prop} {w w' : World} {g : Nat} {l : List UInt8} (h : NumAt w g l) (hk : Keeps G w w') (hg : ¬ G g) : NumAt w' g l := by
  have := h.lt
  obtain ⟨hl, t, ht⟩ := h
  exact ⟨hl, t, (hk.block g this hg).trans ht⟩
theorem WAt.cell {w : World} {g : Nat} {o : List Nat} (h : WAt w g o) (i : Nat) (hi : i < 5) : w.cell? ⟨g, i, none⟩ = some (.int .u64 (o.getD i 0 : Nat)) := by
  obtain ⟨hl, t, ht⟩ := h
  exact word_cell ht i (by omega)

/-- The memory of read. -/
structure Rd (g : Nat) (w : World) (gq q0 q1 q2 q3 : Nat) (o : List Nat) (w' : World) : Prop where
  len : o.length = 5
  row : ∃ t, w'.heap[g]? = some (.cells (ucs o).toArray t (0, 0))
  quads : w'.heap[gq]? = some (.cells (ucs [q0, q1, q2, q3]).toArray 91 (0, 0))
  old : g < w.heap.size
  new : w.heap.size ≤ gq
  keeps : Keeps (· = g) w w'
theorem Rd.set {g : Nat} {w : World} {gq q0 q1 q2 q3 : Nat} {o : List Nat} {w' w'' : World} {t : TypeId} (h : Rd g w gq q0 q1 q2 q3 o w') (hg : w'.grownBy w'' (some g)) (i x : Nat) (hh : w''.heap[g]? = some (.cells (ucs (o.set i x)).toArray t (0, 0))) : Rd g w gq q0 q1 q2 q3 (o.set i x) w'' :=
  ⟨by rw [List.length_set]; exact h.len, ⟨t, hh⟩, (hg.block _ (Array.getElem?_eq_some_iff.1 h.quads).1 (by have := h.old; have := h.new; simp; omega)).trans h.quads, h.old, h.new, h.keeps.trans (Keeps.of_grown hg (fun r hr => by injection hr with hr; exact hr.symm))⟩
theorem Rd.drewN {g : Nat} {w : World} {gq q0 q1 q2 q3 : Nat} {o : List Nat} {w' : World} (h : Rd g w gq q0 q1 q2 q3 o w') (n : Nat) : Rd g w gq q0 q1 q2 q3 o (w'.drewN n) :=
  ⟨h.len, h.row, h.quads, h.old, h.new, h.keeps.trans (Keeps.drewN _ _ _)⟩
theorem Rd.q {g : Nat} {w : World} {gq q0 q1 q2 q3 : Nat} {o : List Nat} {w' : World} (h : Rd g w gq q0 q1 q2 q3 o w') :
    w'.cell? ⟨gq, 0, none⟩ = some (.int .u64 q0) ∧ w'.cell? ⟨gq, 1, none⟩ = some (.int .u64 q1) ∧ w'.cell? ⟨gq, 2, none⟩ = some (.int .u64 q2) ∧ w'.cell? ⟨gq, 3, none⟩ = some (.int .u64 q3) :=
  ⟨word_cell h.quads 0 (by simp), word_cell h.quads 1 (by simp), word_cell h.quads 2 (by simp), word_cell h.quads 3 (by simp)⟩

theorem five_set (o : List Nat) (r0 r1 r2 r3 r4 : Nat) (h : o.length = 5) : ((((o.set 0 r0).set 1 r1).set 2 r2).set 3 r3).set 4 r4 = [r0, r1, r2, r3, r4] := by
  match o, h with
  | [a, b, c, d, e], _ => rfl

set_option maxHeartbeats 1600000 in
theorem read_core (g ga : Nat) (o : List Nat) (l : List UInt8) (w : World) (q0 q1 q2 q3 r0 r1 r2 r3 r4 : Nat) (HW : Hid (WAt w g o)) (HN : Hid (NumAt w ga l))
    (M0 : Hid (∀ w', NumAt w' ga l → Calls Try.prog 92 #[.pointer (some ⟨ga, 0, none⟩)] w' (Gives (.agg (ucs [q0, q1, q2, q3]).toArray) w')))
    (R0 : Hid (bits .and .u64 (q0 : Int) 2251799813685247 = (r0 : Int)))
    (R1 : Hid (bits .and .u64 (bits .or .u64 ((q0 : Int) / 2251799813685248) (IntKind.u64.wrap ((q1 : Int) * 8192))) 2251799813685247 = (r1 : Int)))
    (R2 : Hid (bits .and .u64 (bits .or .u64 ((q1 : Int) / 274877906944) (IntKind.u64.wrap ((q2 : Int) * 67108864))) 2251799813685247 = (r2 : Int)))
    (R3 : Hid (bits .and .u64 (bits .or .u64 ((q2 : Int) / 33554432) (IntKind.u64.wrap ((q3 : Int) * 549755813888))) 2251799813685247 = (r3 : Int)))
    (R4 : Hid ((q3 : Int) / 4096 = (r4 : Int))) :
    Calls Try.prog 65 #[.pointer (some ⟨g, 0, none⟩), .pointer (some ⟨ga, 0, none⟩)] w (Sets g [r0, r1, r2, r3, r4] w) := by
  go_enter Try.func65, Try.ntmps65
  go_wp2_with fail
  refine (M0.out _ HN.out).mono ?_
  rintro e w1 ⟨rfl, hb⟩
  have HB := Lib.hid hb
  clear hb M0 HN
  go_wp2_with (first | (with_reducible refine wpList_alloc_row rfl 91 rfl (.agg (zw 4)) zero91 ?_; intro w2 hh2 hz2 hg2; have HZ2 := Lib.hid hz2; have HG2 := Lib.hid hg2; have HH2 := Lib.hid hh2; clear hz2 hg2 hh2) | ((with_reducible show wpList _ _ _ (⟨none, .store 91 (.tmp 4) (.tmp 6), _, _, _, _⟩ :: _) _ _); refine wpList_store_all rfl 91 (.tmp 4) (.tmp 6) rfl w1.heap.size rfl (ucs [q0, q1, q2, q3]).toArray rfl 91 _ HH2.out size91 rfl (ucs_one _) ?_; intro w3 hh3 hg3 hz3; have HH3 := Lib.hid hh3; have HG3 := Lib.hid hg3; clear hh3 hg3 hz3))
  have S : Hid (Rd g w w1.heap.size q0 q1 q2 q3 o w3) := by
    have h1 := HW.out.lt
    have h2 := HB.out.size
    obtain ⟨hl, t, ht⟩ := ((HW.out.below HB.out h1).grown HG2.out (by simp)).grown HG3.out (by simp; omega)
    refine ⟨hl, ⟨t, ht⟩, HH3.out, h1, h2, ?_⟩
    have h3 := HZ2.out
    have k1 : Below w.heap.size w w3 := (HB.out.grown HG2.out h2 (by simp)).grown HG3.out (by omega) (fun r hr => by injection hr; omega)
    exact Keeps.of_below k1
  clear HW HB HH2 HG2 HZ2 HH3 HG3
  generalize w1.heap.size = gq at *
  have HL : Hid (o.length = 5) := S.out.len
  obtain ⟨c0, c1, c2, c3⟩ := S.out.q
  go_still_tail 6, (by kernel_rfl)
  clear c0 c1 c2 c3
  have S0 : Hid (Rd g w gq q0 q1 q2 q3 _ { heap := w3.heap, tape := w3.tape, drawn := w3.drawn + 1, os := w3.os, output := w3.output }) := S.out.drewN 1
  clear S
  generalize ({ heap := w3.heap, tape := w3.tape, drawn := w3.drawn + 1, os := w3.os, output := w3.output } : World) = x0 at *
  obtain ⟨t0, ht0⟩ := S0.out.row
  refine wpList_store_one rfl 24 (.tmp 12) (.tmp 10) rfl g 0 rfl .u64 _ rfl t0 _ ht0 size24 (by have := S0.out.len; simp only [List.size_toArray, ucs_len]; omega) ?_
  intro y0 hh hg hz
  rw [R0.out, ucs_set] at hh
  have S := Lib.hid (S0.out.set hg 0 r0 hh)
  clear hh hg hz ht0 S0 R0
  go_wp2_with fail
  obtain ⟨c0, c1, c2, c3⟩ := S.out.q
  go_still_tail 11, (by kernel_rfl)
  clear c0 c1 c2 c3
  have S1 : Hid (Rd g w gq q0 q1 q2 q3 _ { heap := y0.heap, tape := y0.tape, drawn := y0.drawn + 1, os := y0.os, output := y0.output }) := S.out.drewN 1
  clear S
  generalize ({ heap := y0.heap, tape := y0.tape, drawn := y0.drawn + 1, os := y0.os, output := y0.output } : World) = x1 at *
  obtain ⟨t1, ht1⟩ := S1.out.row
  refine wpList_store_one rfl 24 (.tmp 23) (.tmp 21) rfl g 1 rfl .u64 _ rfl t1 _ ht1 size24 (by have := S1.out.len; simp only [List.size_toArray, ucs_len]; omega) ?_
  intro y1 hh hg hz
  rw [R1.out, ucs_set] at hh
  have S := Lib.hid (S1.out.set hg 1 r1 hh)
  clear hh hg hz ht1 S1 R1
  go_wp2_with fail
  obtain ⟨c0, c1, c2, c3⟩ := S.out.q
  go_still_tail 11, (by kernel_rfl)
  clear c0 c1 c2 c3
  have S2 : Hid (Rd g w gq q0 q1 q2 q3 _ { heap := y1.heap, tape := y1.tape, drawn := y1.drawn + 1, os := y1.os, output := y1.output }) := S.out.drewN 1
  clear S
  generalize ({ heap := y1.heap, tape := y1.tape, drawn := y1.drawn + 1, os := y1.os, output := y1.output } : World) = x2 at *
  obtain ⟨t2, ht2⟩ := S2.out.row
  refine wpList_store_one rfl 24 (.tmp 34) (.tmp 32) rfl g 2 rfl .u64 _ rfl t2 _ ht2 size24 (by have := S2.out.len; simp only [List.size_toArray, ucs_len]; omega) ?_
  intro y2 hh hg hz
  rw [R2.out, ucs_set] at hh
  have S := Lib.hid (S2.out.set hg 2 r2 hh)
  clear hh hg hz ht2 S2 R2
  go_wp2_with fail
  obtain ⟨c0, c1, c2, c3⟩ := S.out.q
  go_still_tail 11, (by kernel_rfl)
  clear c0 c1 c2 c3
  have S3 : Hid (Rd g w gq q0 q1 q2 q3 _ { heap := y2.heap, tape := y2.tape, drawn := y2.drawn + 1, os := y2.os, output := y2.output }) := S.out.drewN 1
  clear S
  generalize ({ heap := y2.heap, tape := y2.tape, drawn := y2.drawn + 1, os := y2.os, output := y2.output } : World) = x3 at *
  obtain ⟨t3, ht3⟩ := S3.out.row
  refine wpList_store_one rfl 24 (.tmp 45) (.tmp 43) rfl g 3 rfl .u64 _ rfl t3 _ ht3 size24 (by have := S3.out.len; simp only [List.size_toArray, ucs_len]; omega) ?_
  intro y3 hh hg hz
  rw [R3.out, ucs_set] at hh
  have S := Lib.hid (S3.out.set hg 3 r3 hh)
  clear hh hg hz ht3 S3 R3
  go_wp2_with fail
  obtain ⟨c0, c1, c2, c3⟩ := S.out.q
  go_still_tail 6, (by kernel_rfl)
  clear c0 c1 c2 c3
  have S4 : Hid (Rd g w gq q0 q1 q2 q3 _ { heap := y3.heap, tape := y3.tape, drawn := y3.drawn + 1, os := y3.os, output := y3.output }) := S.out.drewN 1
  clear S
  generalize ({ heap := y3.heap, tape := y3.tape, drawn := y3.drawn + 1, os := y3.os, output := y3.output } : World) = x4 at *
  obtain ⟨t4, ht4⟩ := S4.out.row
  refine wpList_store_one rfl 24 (.tmp 51) (.tmp 49) rfl g 4 rfl .u64 _ rfl t4 _ ht4 size24 (by have := S4.out.len; simp only [List.size_toArray, ucs_len]; omega) ?_
  intro y4 hh hg hz
  rw [R4.out, ucs_set] at hh
  have S := Lib.hid (S4.out.set hg 4 r4 hh)
  clear hh hg hz ht4 S4 R4
  go_wp2_with fail
  refine bodyPost_end (results_none rfl _ _ _) rfl ?_
  obtain ⟨t, ht⟩ := S.out.row
  rw [five_set _ _ _ _ _ _ HL.out] at ht
  exact ⟨rfl, ⟨rfl, t, ht⟩, S.out.keeps⟩
end Go.Proofs.Ytgdimnbdnepbgaa
