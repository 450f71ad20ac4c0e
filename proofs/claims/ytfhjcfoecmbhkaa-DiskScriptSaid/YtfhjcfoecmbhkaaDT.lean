/- An image cut into its sectors. No statement is proved here. -/
import Derived.Test.YtfhjcfoecmbhkaaDU
import Derived.Test.YtfhjcfoecmbhkaaDF
namespace Go.Proofs.Ytfhjcfoecmbhkaa
open Go.RowKit Go.Shelf
set_option linter.unusedVariables false
set_option linter.unusedSimpArgs false
attribute [local go_sem] Oper.semAt_some

/-- The bytes of parts. -/
def parts (L : List UInt8) {N : Nat} (pre : List (Fin N)) : List UInt8 := pre.flatMap fun x => (L.drop (256 * x.1)).take 256
theorem parts_snoc (L : List UInt8) {N : Nat} (pre : List (Fin N)) (x : Fin N) : parts L (pre ++ [x]) = parts L pre ++ (L.drop (256 * x.1)).take 256 := by simp [parts]
theorem parts_upto (L : List UInt8) {N k : Nat} (hL : L.length = 256 * N) (hk : k ≤ N) : parts L (upto N k) = L.take (256 * k) := by
  induction k with
  | zero => simp [upto, parts]
  | succ k ih =>
    rw [upto_succ (by omega), parts_snoc, ih (by omega)]
    show L.take (256 * k) ++ (L.drop (256 * k)).take 256 = L.take (256 * (k + 1))
    rw [show 256 * (k + 1) = 256 * k + 256 from by omega, List.take_add]
theorem parts_all (L : List UInt8) {N : Nat} (hL : L.length = 256 * N) : parts L (List.finRange N) = L := by
  rw [← upto_all, parts_upto L hL (Nat.le_refl _), ← hL, List.take_length]
theorem boxed_kept {W W' : World} {row : Option Nat} {B : Nat} {t : TypeId} {v : Value} (h : Boxed W B t v) (hg : W.grownBy W' row) {lo : Nat} (hr : ∀ r, row = some r → lo ≤ r ∧ ∃ o : Obj, W.heap[r]? = some o ∧ o.isCells = false) : Boxed W' B t v :=
  h.kept hg (fun e' => by
    obtain ⟨_, o, ho, hc⟩ := hr B e'.symm
    rw [show W.heap[B]? = _ from h] at ho
    cases ho
    cases hc)
set_option maxRecDepth 100000 in
set_option maxHeartbeats 4000000 in
theorem split_in (n : Nat) (hn : 3 ≤ n) (w : World) (b o N cap : Nat) (L : List UInt8) (hL : L.length = 256 * N) (hcap : 256 * N ≤ cap) (hcm : cap ≤ maxLen) (hN : N ≤ 16384) (hb : b < w.heap.size) (hc : ∀ j u, (bcs L)[j]? = some u → w.cell? ⟨b, o + j, none⟩ = some u) :
    CallsIn Fence.wide n Try.prog 32 #[.slice (some ⟨b, o, none⟩) (256 * N) cap, .int .i64 (N : Int)] w fun e w' => ∃ v, e = .returned v ∧ w'.ownsRow w.heap.size 63 256 v N (bcs L) ∧ Below w.heap.size w w' := by
  have h1 : 1 ≤ n := by omega
  obtain ⟨i0, hi, hz0, hz1, hz2⟩ := info_parts info63
  have HMK : ∀ W : World, (Instr.makeSlice 59 (.int .i64 0) (.int .i64 (N : Int))).run Try.prog W = .ok (.slice (some ⟨W.heap.size, 0, none⟩) 0 N) (W.alloc (.cells (bcs (zs (256 * N))).toArray 63)) := fun W => by
    have hr := run_make (P := Try.prog) W 59 63 i0 (.agg (zarr 256)) under59 hi hz0 .i64 .i64 0 N (by omega) (by omega) (by rw [hz2]; omega) (by omega)
    rw [hr, hz1, Int.toNat_natCast, made_zero]
    rfl
  refine callsIn_of_wp_marks Try.func32 rfl trivial ?_ rfl
  simp only [Try.ntmps32, List.size_toArray, List.length_cons, List.length_nil, Nat.reduceAdd, Nat.reduceSub, Array.replicate_succ, Array.replicate_zero, List.push_toArray, List.append_toArray, List.nil_append, List.cons_append]
  have hf46 : Fence.wide.fn 46 := trivial
  have hrow0 := heap_alloc_new w (.cells (bcs (zs (256 * N))).toArray 63)
  have bB0 := Boxed.new (w.alloc (.cells (bcs (zs (256 * N))).toArray 63)) 59 (.slice (some ⟨w.heap.size, 0, none⟩) 0 N)
  rw [World.size_alloc] at bB0
  have bS0 := Boxed.new ((w.alloc (.cells (bcs (zs (256 * N))).toArray 63)).alloc (.cells #[.slice (some ⟨w.heap.size, 0, none⟩) 0 N] 59)) 27 (.slice (some ⟨b, o, none⟩) (256 * N) cap)
  rw [World.size_alloc, World.size_alloc] at bS0
  have bN0 := Boxed.new (((w.alloc (.cells (bcs (zs (256 * N))).toArray 63)).alloc (.cells #[.slice (some ⟨w.heap.size, 0, none⟩) 0 N] 59)).alloc (.cells #[.slice (some ⟨b, o, none⟩) (256 * N) cap] 27)) 3 (.int .i64 256)
  rw [World.size_alloc, World.size_alloc, World.size_alloc] at bN0
  have bB := Lib.hid ((bB0.alloc (.cells #[.slice (some ⟨b, o, none⟩) (256 * N) cap] 27)).alloc (.cells #[.int .i64 256] 3))
  have bS := Lib.hid (bS0.alloc (.cells #[.int .i64 256] 3))
  have bN := Lib.hid bN0
  have hB0 : Below w.heap.size w ((((w.alloc (.cells (bcs (zs (256 * N))).toArray 63)).alloc (.cells #[.slice (some ⟨w.heap.size, 0, none⟩) 0 N] 59)).alloc (.cells #[.slice (some ⟨b, o, none⟩) (256 * N) cap] 27)).alloc (.cells #[.int .i64 256] 3)) := ((((Below.refl _ w).alloc (Nat.le_refl _) _).alloc (by simp) _).alloc (by simp; omega) _).alloc (by simp; omega) _
  have hr0 := (World.grownBy_alloc _ (.cells #[.int .i64 256] 3) none).block w.heap.size (by simp; omega) (by simp) |>.trans ((World.grownBy_alloc _ (.cells #[.slice (some ⟨b, o, none⟩) (256 * N) cap] 27) none).block w.heap.size (by simp; omega) (by simp) |>.trans ((World.grownBy_alloc _ (.cells #[.slice (some ⟨w.heap.size, 0, none⟩) 0 N] 59) none).block w.heap.size (by simp) (by simp) |>.trans hrow0))
  have HR0 : Hid (((((w.alloc (.cells (bcs (zs (256 * N))).toArray 63)).alloc (.cells #[.slice (some ⟨w.heap.size, 0, none⟩) 0 N] 59)).alloc (.cells #[.slice (some ⟨b, o, none⟩) (256 * N) cap] 27)).alloc (.cells #[.int .i64 256] 3)).ownsRow w.heap.size 63 256 (.slice (some ⟨w.heap.size, 0, none⟩) 0 N) 0 (bcs [])) := Lib.hid ⟨rfl, .inr ⟨_, N, _, rfl, Nat.le_refl _, hr0, Nat.zero_le _, by unfold maxLen; omega, by simp [bcs_len, zs_len]; omega, rfl⟩⟩
  have HSZ : Hid (((((w.alloc (.cells (bcs (zs (256 * N))).toArray 63)).alloc (.cells #[.slice (some ⟨w.heap.size, 0, none⟩) 0 N] 59)).alloc (.cells #[.slice (some ⟨b, o, none⟩) (256 * N) cap] 27)).alloc (.cells #[.int .i64 256] 3)).heap.size = w.heap.size + 4) := Lib.hid (by simp)
  have HB0 := Lib.hid hB0
  clear hrow0 bB0 bS0 bN0 hB0 hr0
  gi_wp2_with (gi_at_call 46; refine (chunk_in (n - 1) _ _ _ _).mono ?_; rintro e w' ⟨rfl, rfl⟩)
  generalize ((((w.alloc (.cells (bcs (zs (256 * N))).toArray 63)).alloc (.cells #[.slice (some ⟨w.heap.size, 0, none⟩) 0 N] 59)).alloc (.cells #[.slice (some ⟨b, o, none⟩) (256 * N) cap] 27)).alloc (.cells #[.int .i64 256] 3)) = W0 at *
  refine wpIn_rangeFunc_ownG rfl h1 (gf := 51) (lb := #[.pointer (some ⟨w.heap.size + 1 + 1, 0, none⟩), .pointer (some ⟨w.heap.size + 1 + 1 + 1, 0, none⟩)]) rfl trivial (enters_of Try.func51 (by kernel_rfl) rfl)
    (chunk_stops (n - 1) (by omega) (w.heap.size + 1 + 1) (w.heap.size + 1 + 1 + 1) b o N cap hcap hcm hN W0 bS.out.cell bN.out.cell (by have := HSZ.out; omega) (by have := HSZ.out; omega)) (fun h k => h.trans k)
    (fun W l o o' hl ho _ _ => ⟨World.putObj_heap_other (by have := HSZ.out; omega), World.putObj_heap_other (by have := HSZ.out; omega)⟩) (Below.refl _ _) (fun _ => rfl)
    (fun pre W => (∃ v, Boxed W (w.heap.size + 1) 59 v ∧ W.ownsRow w.heap.size 63 256 v pre.length (bcs (parts L pre)) ∧ True) ∧ (Below w.heap.size w W ∧ Boxed W (w.heap.size + 1 + 1) 27 (.slice (some ⟨b, o, none⟩) (256 * N) cap) ∧ Boxed W (w.heap.size + 1 + 1 + 1) 3 (.int .i64 256)))
    (fun _ _ _ => False)
    (OwnFrom.and (Own.from (holdsRow_own w.heap.size (w.heap.size + 1) 59 63 256 (fun pre : List (Fin N) => pre.length) (fun pre => bcs (parts L pre)) (fun _ _ => True)) _) (fun s X Y row hs hg hr => ⟨hs.1.grown hg hs.1.size (fun k e => by have := (hr k e).1; have := HSZ.out; omega), boxed_kept hs.2.1 hg hr, boxed_kept hs.2.2 hg hr⟩))
    (fun _ _ _ _ _ hs _ _ => hs)
    ⟨⟨_, bB.out, HR0.out, trivial⟩, HB0.out, bS.out, bN.out⟩
    (fun x => { tmps := #[.slice (some ⟨b, o, none⟩) (256 * N) cap, .int .i64 (N : Int), undef, undef, .slice none 0 0, .pointer (some ⟨w.heap.size + 1, 0, none⟩), .slice (some ⟨b, o + 256 * x.1, none⟩) 256 256, .int .i64 (N : Int), .slice (some ⟨w.heap.size, 0, none⟩) 0 N, .slice (some ⟨b, o, none⟩) (256 * N) cap, .func (.func 51) #[] #[.pointer (some ⟨w.heap.size + 1 + 1, 0, none⟩), .pointer (some ⟨w.heap.size + 1 + 1 + 1, 0, none⟩)], .slice (some ⟨b, o + 256 * x.1, none⟩) 256 256, undef, undef, undef, undef, undef, undef, undef], defers := [] }) ?assign ?body ?done ?stop
  case assign =>
    intro l x W K hK
    gi_wp2
    exact hK
  case body =>
    rintro l pre x W ⟨⟨v, hv, hrow, -⟩, hB, hBS, hBN⟩ hlt
    have hxl := x.2
    have hpl : ((L.drop (256 * x.1)).take 256).length = 256 := by rw [List.length_take, List.length_drop, hL]; omega
    have hld : ∀ j u, (bcs ((L.drop (256 * x.1)).take 256))[j]? = some u → W.drew.cell? ⟨b, o + 256 * x.1 + j, none⟩ = some u := fun j u hj => by
      have hj2 : j < 256 := by have := (List.getElem?_eq_some_iff.1 hj).1; rw [bcs_len, hpl] at this; exact this
      refine (hB.drew.cell (p := ⟨b, o + 256 * x.1 + j, none⟩) hb).trans ?_
      rw [Nat.add_assoc]
      refine hc _ u ?_
      rw [bcs_get] at hj ⊢
      rw [List.getElem?_take, if_pos hj2, List.getElem?_drop] at hj
      exact hj
    have hps := parts_snoc L pre x
    generalize ((L.drop (256 * x.1)).take 256) = part at *
    have hrow2 : (W.drew.alloc (.cells (bcs part).toArray 63)).ownsRow w.heap.size 63 256 v pre.length (bcs (parts L pre)) := ownsRow_keep (w := W) hrow ((Below.refl W.heap.size W).drew.alloc (Nat.le_refl _) _)
    have hnew : (W.drew.alloc (.cells (bcs part).toArray 63)).heap[W.heap.size]? = some (.cells (bcs part).toArray 63 (0, 0)) := heap_alloc_new W.drew (.cells (bcs part).toArray 63)
    obtain ⟨v', w1, happ, hown', hgrow, hnil, hloc⟩ := run_append_own_at (P := Try.prog) (W.drew.alloc (.cells (bcs part).toArray 63)) w.heap.size 59 59 63 i0 (.agg (zarr 256)) 256 256 under59 hi hz0 hz1 hz2 (by simp [Value.cells, zarr]) (by omega) v pre.length (bcs (parts L pre)) hrow2 ⟨W.heap.size, 0, none⟩ 1 1 (bcs part) (by rw [bcs_len, hpl])
      (fun j u hj => by rw [Addr.add_lit, Nat.zero_add, cell_of_row _ _ _ _ _ _ hnew]; simpa using hj) (bcs_one _) (by unfold maxLen; omega) (by omega) (by have := hB.size; simp; show w.heap.size ≤ W.heap.size + 1; omega)
    have HOWN := Lib.hid hown'
    have HGROW := Lib.hid hgrow
    obtain ⟨g', cap', rfl⟩ := ownsRow_succ hown'
    have hvd : Boxed W.drew (w.heap.size + 1) 59 v := hv
    have hvb := hvd.alloc (.cells (bcs part).toArray 63)
    have hv1 : Boxed w1 (w.heap.size + 1) 59 v := hvb.kept hgrow (hvb.not_row (by decide) hrow2)
    have hc0 := hvd.cell
    have hcb := hvb.cell
    have hc1 := hv1.cell
    have hf1 := hv1.frozen
    have HAP := Lib.hid (hvd.appended (by decide) (show W.drew.ownsRow w.heap.size 63 256 v pre.length (bcs (parts L pre)) from hrow) (show w.heap.size ≤ W.drew.heap.size from hB.size) (Nat.le_succ _) hown' hgrow)
    have box2 : ∀ {B' : Nat} {t : TypeId} {u : Value}, Boxed W B' t u → t ≠ 63 → B' ≠ w.heap.size + 1 → Boxed (w1.setCell ⟨w.heap.size + 1, 0, none⟩ (.slice (some ⟨g', 0, none⟩) (pre.length + 1) cap')) B' t u := fun {B' t u} hbx ht hne => by
      have h1 : Boxed W.drew B' t u := hbx
      have h2 := h1.alloc (.cells (bcs part).toArray 63)
      exact (h2.kept hgrow (h2.not_row ht hrow2)).kept (grownBy_setCell' w1 _ _) (by simp; omega)
    have HS2 := Lib.hid (box2 hBS (by decide) (by omega))
    have HN2 := Lib.hid (box2 hBN (by decide) (by omega))
    have HBS := Lib.hid hBS
    have HBN := Lib.hid hBN
    have HBB := Lib.hid hB
    have HPS := Lib.hid hps
    clear hnew hv hvd hvb hv1 hown' hgrow hnil hloc hB hBS hBN hrow hrow2 hps hc box2
    gi_wp2
    refine split_body l (n - 1 - 1) _ (w.heap.size + 1) b (o + 256 * x.1) part hpl W w1 v _ _ _ _ _ _ _ _ _ _ _ _ _ _ _ _ _ _ _ _ hc0 hcb hld happ hc1 hf1 ?_
    obtain ⟨-, hv2, hr2, hk2, hb2⟩ := HAP.out
    have hk3 : KeepsOthers W (w1.setCell ⟨w.heap.size + 1, 0, none⟩ (.slice (some ⟨g', 0, none⟩) (pre.length + 1) cap')) := ⟨hk2.size, hk2.same⟩
    have hb3 : Below w.heap.size W (w1.setCell ⟨w.heap.size + 1, 0, none⟩ (.slice (some ⟨g', 0, none⟩) (pre.length + 1) cap')) := ⟨hb2.os, hb2.tape, hb2.output, hb2.size, hb2.block⟩
    exact ⟨hk3.from _, ⟨HS2.out.trans HBS.out.symm, HN2.out.trans HBN.out.symm⟩, ⟨_, hv2, by rw [List.length_append, HPS.out, bcs_append]; exact hr2, trivial⟩, HBB.out.trans hb3, HS2.out, HN2.out⟩
  case done =>
    rintro D ys W hD rfl ⟨⟨v, hv, hrow, -⟩, hB, -⟩ hK
    have hc := hv.cell
    gi_wp2
    refine ⟨by simp, .inl ⟨_, _, rfl, run_takeDeferred hK, ?_⟩⟩
    rw [parts_all L hL, List.length_finRange] at hrow
    exact ⟨_, results_tmp rfl _ _ _, v, rfl, ownsRow_putObj hrow _ hK rfl, hB.trans (belowK_b (w := w) (Nat.le_refl _) W D _ _ (by have := HSZ.out; omega) hK rfl rfl)⟩
  case stop =>
    rintro D c pre W _ _ h _
    exact h.elim
end Go.Proofs.Ytfhjcfoecmbhkaa
