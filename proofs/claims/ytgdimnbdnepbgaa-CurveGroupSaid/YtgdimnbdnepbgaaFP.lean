/- The field's number: five words become 32 bytes. No statement is proved here. -/
import Derived.Test.YtgdimnbdnepbgaaFO
namespace Go.Proofs.Ytgdimnbdnepbgaa
open Go.RowKit
set_option linter.unusedVariables false
set_option maxRecDepth 40000

theorem zero23 (w : World) : (zeroValue 23).run Try.prog w = .ok (.agg (zbs 32)) w := by kernel_rfl
theorem under23 : Try.prog.underlying 23 = some (.array 32 5) := by kernel_rfl
theorem size23 : (Try.prog.info? 23).map (·.size) = some 32 := by kernel_rfl

/-- The memory of number. -/
structure Nb (g : Nat) (ws : List Nat) (w : World) (l : List UInt8) (w' : World) : Prop where
  at_ : WAt w' g ws
  old : g < w.heap.size
  len : l.length = 32
  row : ∃ t, w'.heap[w.heap.size]? = some (.cells (bcs l).toArray t (0, 0))
  keeps : Keeps (· = g) w w'
theorem Nb.pb {g : Nat} {ws : List Nat} {w : World} {l : List UInt8} {w' : World} (h : Nb g ws w l w') : Pb w.heap.size w' 32 l w' := ⟨h.len, h.row, Keeps.refl _ _⟩
theorem Nb.set {g : Nat} {ws : List Nat} {w : World} {l l' : List UInt8} {w' w'' : World} (h : Nb g ws w l w') (k : Pb w.heap.size w' 32 l' w'') : Nb g ws w l' w'' :=
  ⟨h.at_.keeps k.keeps (by have := h.old; show ¬ g = _; omega), h.old, k.len, k.row, ⟨k.keeps.os.trans h.keeps.os, k.keeps.tape.trans h.keeps.tape, k.keeps.output.trans h.keeps.output, Nat.le_trans h.keeps.size k.keeps.size,
    fun i hi hg => (k.keeps.block i (Nat.lt_of_lt_of_le hi h.keeps.size) (by show ¬ i = _; omega)).trans (h.keeps.block i hi hg)⟩⟩
theorem Nb.drew1 {g : Nat} {ws : List Nat} {w : World} {l : List UInt8} {w' : World} (h : Nb g ws w l w') : Nb g ws w l { heap := w'.heap, tape := w'.tape, drawn := w'.drawn + 1, os := w'.os, output := w'.output } :=
  ⟨h.at_, h.old, h.len, h.row, h.keeps.trans (Keeps.drewN _ _ 1)⟩

set_option maxHeartbeats 2000000 in
theorem number_core (g : Nat) (o : List Nat) (a b c d e n0 n1 n2 n3 : Nat) (w : World) (HW : Hid (WAt w g o))
    (HL : Hid (∀ w', WAt w' g o → Calls Try.prog 93 #[.pointer (some ⟨g, 0, none⟩)] w' (Sets g [a, b, c, d, e] w')))
    (V0 : Hid (bits .or .u64 (a : Int) (IntKind.u64.wrap ((b : Int) * 2251799813685248)) = (n0 : Int)))
    (V1 : Hid (bits .or .u64 ((b : Int) / 8192) (IntKind.u64.wrap ((c : Int) * 274877906944)) = (n1 : Int)))
    (V2 : Hid (bits .or .u64 ((c : Int) / 67108864) (IntKind.u64.wrap ((d : Int) * 33554432)) = (n2 : Int)))
    (V3 : Hid (bits .or .u64 ((d : Int) / 549755813888) (IntKind.u64.wrap ((e : Int) * 4096)) = (n3 : Int))) :
    Calls Try.prog 66 #[.pointer (some ⟨g, 0, none⟩)] w fun x w' => x = .returned (.agg (bcs (encQ n0 n1 n2 n3)).toArray) ∧ Keeps (· = g) w w' := by
  have HO : Hid (g < w.heap.size) := HW.out.lt
  go_enter Try.func66, Try.ntmps66
  go_wp2_with (with_reducible refine wpList_alloc_row rfl 23 rfl (.agg (zbs 32)) zero23 ?_; intro w0 hh0 hz0 hg0; have HZ0 := Lib.hid hz0; have HH0 := Lib.hid hh0; have HG0 := Lib.hid hg0; clear hz0 hh0 hg0)
  refine (HL.out _ (HW.out.grown HG0.out (by simp))).mono ?_
  rintro x w1 ⟨rfl, ha, hk⟩
  have S : Hid (Nb g [a, b, c, d, e] w (List.replicate 32 0) w1) :=
    ⟨ha, HO.out, rfl, ⟨23, (hk.block w.heap.size (by have := HZ0.out; omega) (by have := HO.out; show ¬ _ = g; omega)).trans HH0.out⟩, (Keeps.of_grown HG0.out (fun r hr => by cases hr)).trans hk⟩
  clear ha hk HZ0 HH0 HG0 HW HL
  have c0 := S.out.at_.cell 0 (by omega)
  have c1 := S.out.at_.cell 1 (by omega)
  simp only [List.getD_cons_zero, List.getD_cons_succ] at c0 c1
  go_wp2_with fail
  go_still_tail 11, (by kernel_rfl)
  clear c0 c1
  have S' : Hid (Nb g [a, b, c, d, e] w (List.replicate 32 0) { heap := w1.heap, tape := w1.tape, drawn := w1.drawn + 1, os := w1.os, output := w1.output }) := S.out.drew1
  clear S
  generalize ({ heap := w1.heap, tape := w1.tape, drawn := w1.drawn + 1, os := w1.os, output := w1.output } : World) = z0 at *
  rw [V0.out]
  clear V0
  go_wp2_with fail
  refine (setQuad_any w.heap.size 0 32 32 n0 _ z0 (by omega) S'.out.pb).mono ?_
  rintro x y0 ⟨rfl, hp⟩
  have S := Lib.hid (S'.out.set hp)
  clear S' hp
  have c0 := S.out.at_.cell 1 (by omega)
  have c1 := S.out.at_.cell 2 (by omega)
  simp only [List.getD_cons_zero, List.getD_cons_succ] at c0 c1
  go_wp2_with fail
  go_still_tail 12, (by kernel_rfl)
  clear c0 c1
  have S' : Hid (Nb g [a, b, c, d, e] w (put8 (List.replicate 32 0) 0 n0) { heap := y0.heap, tape := y0.tape, drawn := y0.drawn + 1, os := y0.os, output := y0.output }) := S.out.drew1
  clear S
  generalize ({ heap := y0.heap, tape := y0.tape, drawn := y0.drawn + 1, os := y0.os, output := y0.output } : World) = z1 at *
  rw [V1.out]
  clear V1
  go_wp2_with fail
  refine (setQuad_any w.heap.size 8 24 32 n1 _ z1 (by omega) S'.out.pb).mono ?_
  rintro x y1 ⟨rfl, hp⟩
  have S := Lib.hid (S'.out.set hp)
  clear S' hp
  have c0 := S.out.at_.cell 2 (by omega)
  have c1 := S.out.at_.cell 3 (by omega)
  simp only [List.getD_cons_zero, List.getD_cons_succ] at c0 c1
  go_wp2_with fail
  go_still_tail 12, (by kernel_rfl)
  clear c0 c1
  have S' : Hid (Nb g [a, b, c, d, e] w (put8 (put8 (List.replicate 32 0) 0 n0) 8 n1) { heap := y1.heap, tape := y1.tape, drawn := y1.drawn + 1, os := y1.os, output := y1.output }) := S.out.drew1
  clear S
  generalize ({ heap := y1.heap, tape := y1.tape, drawn := y1.drawn + 1, os := y1.os, output := y1.output } : World) = z2 at *
  rw [V2.out]
  clear V2
  go_wp2_with fail
  refine (setQuad_any w.heap.size 16 16 32 n2 _ z2 (by omega) S'.out.pb).mono ?_
  rintro x y2 ⟨rfl, hp⟩
  have S := Lib.hid (S'.out.set hp)
  clear S' hp
  have c0 := S.out.at_.cell 3 (by omega)
  have c1 := S.out.at_.cell 4 (by omega)
  simp only [List.getD_cons_zero, List.getD_cons_succ] at c0 c1
  go_wp2_with fail
  go_still_tail 12, (by kernel_rfl)
  clear c0 c1
  have S' : Hid (Nb g [a, b, c, d, e] w (put8 (put8 (put8 (List.replicate 32 0) 0 n0) 8 n1) 16 n2) { heap := y2.heap, tape := y2.tape, drawn := y2.drawn + 1, os := y2.os, output := y2.output }) := S.out.drew1
  clear S
  generalize ({ heap := y2.heap, tape := y2.tape, drawn := y2.drawn + 1, os := y2.os, output := y2.output } : World) = z3 at *
  rw [V3.out]
  clear V3
  go_wp2_with fail
  refine (setQuad_any w.heap.size 24 8 32 n3 _ z3 (by omega) S'.out.pb).mono ?_
  rintro x y3 ⟨rfl, hp⟩
  have S := Lib.hid (S'.out.set hp)
  clear S' hp
  have HF : Hid (Nb g [a, b, c, d, e] w (encQ n0 n1 n2 n3) y3) := by
    have h := S.out
    rw [put_zero] at h
    exact h
  clear S
  have HLen : Hid ((encQ n0 n1 n2 n3).length = 32) := HF.out.len
  obtain ⟨L, hLe⟩ : ∃ L, L = encQ n0 n1 n2 n3 := ⟨_, rfl⟩
  rw [← hLe] at HF HLen
  have HLE := Lib.hid hLe
  clear hLe
  obtain ⟨t, ht⟩ := HF.out.row
  have HT := Lib.hid ht
  clear ht
  go_wp2_with (first | ((with_reducible show wpList _ _ _ (⟨_, .load 23 (.tmp 2), _, _, _, _⟩ :: _) _ _); go_must (refine wpList_load_arr rfl 23 (.tmp 2) rfl w.heap.size 0 rfl (bcs L) (fun i u hu => by rw [Nat.zero_add]; exact row_cells HT.out i u (by simpa using hu)) _ under23 rfl (by rw [bcs_len, HLen.out]; exact size23) ?_)) | ((with_reducible show wpList _ _ _ (⟨none, .store 23 (.tmp 2) (.tmp 56), _, _, _, _⟩ :: _) _ _); go_must (refine wpList_store_all rfl 23 (.tmp 2) (.tmp 56) rfl w.heap.size rfl (bcs L).toArray rfl t _ HT.out (by rw [List.size_toArray, bcs_len, HLen.out]; exact size23) rfl (bcs_one _) ?_; intro v3 hh3 hg3 hz3; have HH3 := Lib.hid hh3; have HK3 := Lib.hid ((HF.out.set ⟨HLen.out, ⟨t, hh3⟩, Keeps.of_grown hg3 (fun r hr => by injection hr with hr; exact hr.symm)⟩)); clear hh3 hg3 hz3)))
  refine bodyPost_ret (results_cell_row rfl _ _ w.heap.size t (bcs L).toArray _ _ rfl HH3.out under23 rfl (by rw [List.size_toArray, bcs_len, HLen.out]; exact size23)) rfl ?_
  exact ⟨by rw [HLE.out], HK3.out.keeps⟩

theorem number_any (g : Nat) (o : List Nat) (w : World) (hw : WAt w g o) (ho : Bnd 9223372036854775808 o) :
    Calls Try.prog 66 #[.pointer (some ⟨g, 0, none⟩)] w fun x w' => x = .returned (.agg (bcs (enc (val5 o % 57896044618658097711785492504343953926634992332820282019728792003956564819949))).toArray) ∧ Keeps (· = g) w w' := by
  obtain ⟨hv, hb⟩ := least_val o ho
  have hL : ∀ w', WAt w' g o → Calls Try.prog 93 #[.pointer (some ⟨g, 0, none⟩)] w' (Sets g (leastL o) w') := fun w' h => least_any g o w' h ho
  rw [← hv]
  clear hv
  generalize leastL o = R at *
  obtain ⟨a, b, c, d, e, rfl, ha, hb, hc, hd, he⟩ := bnd5 hb
  rw [← four_val a b c d e ha hb hc hd he]
  have v0 := cross_or a b 1 2251799813685248 51 rfl 8192 (by omega) rfl ha (by omega)
  rw [show (a : Int) / ((1 : Nat) : Int) = (a : Int) from by simp, Nat.div_one] at v0
  exact number_core g o a b c d e _ _ _ _ w hw hL (Lib.hid v0) (cross_or b c 8192 274877906944 38 rfl 67108864 (by omega) rfl hb (by omega)) (cross_or c d 67108864 33554432 25 rfl 549755813888 (by omega) rfl hc (by omega)) (cross_or d e 549755813888 4096 12 rfl 4503599627370496 (by omega) rfl hd (by omega))
end Go.Proofs.Ytgdimnbdnepbgaa
