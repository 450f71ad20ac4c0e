/- The whole pieces of bytes. No statement is proved here. -/
import Derived.Test.YtkglicidjdifkaaSV

namespace Go.Proofs.Ytkglicidjdifkaa
open Go.RowKit
set_option linter.unusedVariables false

/-- After k pieces. -/
def runN (s : St) (l : List UInt8) : Nat → St
  | 0 => s
  | k + 1 => piece (runN s l k) ((l.drop (128 * k)).take 128)
theorem runN_fits (s : St) (l : List UInt8) (hs : s.Fits) : ∀ k, (runN s l k).Fits
  | 0 => hs
  | k + 1 => piece_fits _ _
theorem results_cell_slot {P : Program} {fn : Func} {p q : Tmp} {ty : TypeId} (h : fn.results = #[.cell p ty, .tmp q]) (tmps : Array Value) (w : World) (g : Nat) (t : TypeId) (cs : Array Value) (fr : Nat × Nat) (d : TypeDesc) (v : Value)
    (hp : tmps.getD p undef = .pointer (some ⟨g, 0, none⟩)) (hg : w.heap[g]? = some (.cells cs t fr)) (hv : tmps.getD q undef = v)
    (hu : P.underlying ty = some d) (hd : (match d with | .struct _ | .array _ _ => true | _ => false) = true) (hi : (P.info? ty).map (·.size) = some cs.size) :
    (results fn tmps).run P w = .ok (.tuple #[.agg cs, v]) w := by
  have hp' : tmps[p]?.getD undef = .pointer (some ⟨g, 0, none⟩) := by simpa using hp
  have hv' : tmps[q]?.getD undef = v := by simpa using hv
  simp [results, h, hp', hv', asAddr, run_loadVar_row w g t ty cs fr d hg hu hd hi]
theorem run_arr84 (A : Option Addr) (n c : Nat) (h : 128 ≤ n) (w : World) : (Instr.arrayAt 84 (.slice A n c)).run Try.prog w = .ok (.pointer A) w := by
  have hn : ¬ n < 128 := by omega
  simp [Instr.arrayAt, run_underlying under84, hn]
/-- Where the rest lies after k pieces. -/
def Shape (A : Option Addr) (c k : Nat) (A' : Option Addr) (c' : Nat) : Prop := c' = 0 ∨ (c' + 128 * k = c ∧ ∀ b off, A = some ⟨b, off, none⟩ → A' = some ⟨b, off + 128 * k, none⟩)
theorem Shape.zero (A : Option Addr) (c : Nat) : Shape A c 0 A c := .inr ⟨by simp, fun b off h => by simpa using h⟩
theorem Shape.succ' {A : Option Addr} {c k : Nat} {b0 o0 : Nat} {c' : Nat} (h : Shape A c k (some ⟨b0, o0, none⟩) c') (hc : 128 ≤ c') :
    Shape A c (k + 1) (if c' = 128 then some ⟨b0, o0, none⟩ else (some (⟨b0, o0, none⟩ : Addr)).map (·.add 128)) (c' - 128) := by
  by_cases h1 : c' = 128
  · exact .inl (by omega)
  · rcases h with h | ⟨h2, h3⟩
    · omega
    · refine .inr ⟨by omega, fun b off e => ?_⟩
      have h4 := h3 b off e
      rw [if_neg h1, h4, Option.map_some]
      simp [Addr.add, Nat.mul_add, Nat.add_assoc]
theorem Shape.succ {A : Option Addr} {c k : Nat} {A' : Option Addr} {c' : Nat} (h : Shape A c k A' c') (hA : ∀ a, A = some a → a.spot = none) (hn : A ≠ none) (hc : 128 ≤ c') :
    Shape A c (k + 1) (if c' = 128 then A' else A'.map (·.add 128)) (c' - 128) := by
  by_cases h1 : c' = 128
  · exact .inl (by omega)
  · rcases h with h | ⟨h2, h3⟩
    · omega
    · refine .inr ⟨by omega, fun b off e => ?_⟩
      rw [if_neg h1, h3 b off e, Option.map_some]
      simp [Addr.add, Nat.mul_add, Nat.add_assoc]
theorem sz64 (s : St) : (Try.prog.info? 64).map (·.size) = some (ucs s.words).toArray.size := by rw [size64]; rfl
theorem fit64 (s t : St) : (ucs s.words).toArray.size = (ucs t.words).toArray.size := rfl
/-- The memory of pieces. -/
structure Pz (B : Nat) (w0 : World) (s : St) (w : World) : Prop where
  st : w.heap[B]? = some (.cells (ucs s.words).toArray 64 (0, 0))
  res : w.heap[B + 1]? = some (.cells (zw 8) 64 (0, 0))
  lt : B + 2 ≤ w.heap.size
  bel : Below B w0 w
theorem Pz.below {B : Nat} {w0 w w' : World} {s : St} (h : Pz B w0 s w) (hb : Below w.heap.size w w') : Pz B w0 s w' := by
  have := h.lt
  exact ⟨(hb.block _ (by omega)).trans h.st, (hb.block _ (by omega)).trans h.res, Nat.le_trans h.lt hb.size, h.bel.trans (hb.mono (by omega))⟩

def GivesPc (w : World) (s : St) (l : List UInt8) (S : Nat → Prop) (A : Option Addr) (n c : Nat) (e : Ending) (w' : World) : Prop :=
  ∃ A' c', e = .returned (.tuple #[.agg (ucs (runN s l (n / 128)).words).toArray, .slice A' (n % 128) c']) ∧ n % 128 ≤ c' ∧ c' ≤ maxLen ∧ Src w' S A' (n % 128) (bcs (l.drop (128 * (n / 128)))) ∧ Shape A c (n / 128) A' c' ∧ Below w.heap.size w w'

set_option maxRecDepth 100000 in
set_option maxHeartbeats 1000000 in
theorem pieces_any (s : St) (hs : s.Fits) (l : List UInt8) (w : World) (S : Nat → Prop) (A : Option Addr) (n c : Nat) (hsrc : Src w S A n (bcs l)) (hS : ∀ b, S b → b < w.heap.size) (hn : n ≤ 1099511627776) (hnc : n ≤ c) (hc : c ≤ maxLen) :
    Calls Try.prog 38 #[.agg (ucs s.words).toArray, .slice A n c] w (GivesPc w s l S A n c) := by
  have HSR := Lib.hid hsrc
  have hl : l.length = n := src_len hsrc
  have HL := Lib.hid hl
  clear hsrc hl
  go_enter Try.func38, Try.ntmps38
  go_wp2_with (first | (with_reducible refine wpList_alloc_row rfl 64 rfl (.agg (zw 8)) zero64 ?_; intro w1 hh1 hz1 hg1))
  simp only [World.size_alloc] at hz1 hh1 ⊢
  have HZ : Hid (Pz w.heap.size w s w1) := by
    refine ⟨?_, hh1, by omega, ?_⟩
    · exact (hg1.block _ (by simp) (by simp)).trans (heap_alloc_new w _)
    · exact (below_alloc w _).grown hg1 (by simp) (by simp)
  have HS1 : Hid (Src w1 S A n (bcs l)) := HSR.out.below' HZ.out.bel hS
  clear hh1 hz1 hg1 HSR
  go_loopw [1, 6, 7, 8] (fun b _ _ _ wr => ∃ k A' c', 128 * k ≤ n ∧ b = .slice A' (n - 128 * k) c' ∧ n - 128 * k ≤ c' ∧ c' ≤ maxLen ∧ Src wr S A' (n - 128 * k) (bcs (l.drop (128 * k))) ∧ Shape A c k A' c' ∧ Pz w.heap.size w (runN s l k) wr) (fun b _ _ _ _ => match b with | .slice _ m _ => m | _ => 0)
  case atStart => exact ⟨0, A, c, by omega, by simp, by simpa using hnc, hc, by simpa using HS1.out, Shape.zero A c, HZ.out⟩
  case round =>
    obtain ⟨k, A', c', hk, rfl, hc1, hc2, hsr, hsh, hpz⟩ := hrel
    have H := Lib.hid hpz
    have HSR := Lib.hid hsr
    have HSH := Lib.hid hsh
    have hlt := hpz.lt
    clear hpz hsr hsh HZ HS1
    have hge : ∀ m : Nat, m = n - 128 * k → (128 ≤ m ∧ (n / 128 ≠ k)) ∨ (m < 128 ∧ n / 128 = k ∧ m = n % 128) := by intro m hm; omega
    have hge := hge _ rfl
    by_cases hlt1 : 128 ≤ n - 128 * k
    · clear hge
      have HT : Hid (Src wr S A' 128 (bcs ((l.drop (128 * k)).take 128))) := by rw [bcs_takeD]; exact HSR.out.take_ 128 hlt1
      obtain ⟨b0, o0, rfl, hb0, hcell⟩ := HT.out.lies (by omega)
      have hb0' := hS b0 hb0
      have HCC := Lib.hid hcell
      clear hcell
      have HL4 := Lib.hid (show ((l.drop (128 * k)).take 128).length = 128 from by have := HL.out; rw [List.length_take, List.length_drop]; omega)
      have HC0 : Hid (∀ w', Below wr.heap.size wr.drew w' → ∀ i u, (ucs (runN s l k).words)[i]? = some u → w'.cell? ⟨w.heap.size, 0 + i, none⟩ = some u) := fun w' hk i u hu => by
        rw [Nat.zero_add]
        exact row_cells ((hk.block w.heap.size (by show w.heap.size < wr.heap.size; omega)).trans H.out.st) i u (by simpa using hu)
      have HSz0 : Hid ((Try.prog.info? 64).map (·.size) = some (ucs (runN s l k).words).length) := by rw [size64, ucs_len]; exact rfl
      have HC4 : Hid (∀ w', Below wr.heap.size wr.drew w' → ∀ i u, (bcs ((l.drop (128 * k)).take 128))[i]? = some u → w'.cell? ⟨b0, o0 + i, none⟩ = some u) := fun w' hk i u hu => by
        have hi : i < 128 := by have := (List.getElem?_eq_some_iff.1 hu).1; rw [bcs_len, HL4.out] at this; exact this
        have h1 : w'.cell? ⟨b0, o0 + i, none⟩ = wr.drew.cell? ⟨b0, o0 + i, none⟩ := hk.cell (p := ⟨b0, o0 + i, none⟩) (by show b0 < wr.heap.size; omega)
        rw [h1]
        exact (HCC.out i hi).trans hu
      have HSz4 : Hid ((Try.prog.info? 84).map (·.size) = some (bcs ((l.drop (128 * k)).take 128)).length) := by rw [size84, bcs_len, HL4.out]; exact rfl
      have hle : (128 : Int) ≤ ((n - 128 * k : Nat) : Int) := by omega
      have hcc : (128 : Int) ≤ (c' : Int) := by omega
      have hcc' : 128 ≤ c' := by omega
      go_wp2_with fail
      refine startW (fun j => j == 6) wr.heap.size (by kernel_rfl) ?_
      refine takeW (i := 0) (oi := { dst := some 9, op := Op.load 64 (Operand.tmp 2), type := 64, pos := "sha.go:47", after := #[], guard := none }) (.agg (ucs (runN s l k).words).toArray) rfl (by kernel_rfl) (by kernel_rfl) (by kernel_rfl) (by kernel_rfl) (fun _ _ _ h => h) (by rfl) (fun w' hk => exec_load 64 (.tmp 2) rfl w.heap.size 0 rfl (ucs (runN s l k).words) (HC0.out w' hk) _ under64 rfl HSz0.out) ?_
      simp only [Act.put, List.setIfInBounds_toArray, List.set_cons_zero, List.set_cons_succ]
      refine takeWE (i := 1) (oi := { dst := some 10, op := Op.move (Operand.tmp 1), type := 26, pos := "sha.go:47", after := #[], guard := none }) rfl (by kernel_rfl) (by kernel_rfl) (by kernel_rfl) (by kernel_rfl) (fun _ _ _ _ h => h) (by rfl) ?_
      apply Exists.intro
      refine ⟨fun w' hk => ?_, ?_⟩
      · go_simp <;> with_reducible rfl
      simp only [Act.put, List.setIfInBounds_toArray, List.set_cons_zero, List.set_cons_succ]
      refine takeWE (i := 2) (oi := { dst := some 11, op := Op.slice 26 (Operand.tmp 10) none (some (Operand.const (Value.int IntKind.i64 128))) none, type := 26, pos := "sha.go:47", after := #[{ on := 1, ground := Ground.data }], guard := none }) rfl (by kernel_rfl) (by kernel_rfl) (by kernel_rfl) (by kernel_rfl) (fun _ _ _ _ h => h) (by rfl) ?_
      apply Exists.intro
      refine ⟨fun w' hk => ?_, ?_⟩
      · go_simp <;> with_reducible rfl
      simp only [Act.put, List.setIfInBounds_toArray, List.set_cons_zero, List.set_cons_succ]
      refine takeWE (i := 3) (oi := { dst := some 12, op := Op.sliceToArrayPointer 84 (Operand.tmp 11), type := 0, pos := "sha.go:47", after := #[{ on := 2, ground := Ground.data }], guard := none }) rfl (by kernel_rfl) (by kernel_rfl) (by kernel_rfl) (by kernel_rfl) (fun _ _ _ _ h => h) (by rfl) ?_
      apply Exists.intro
      refine ⟨fun w' hk => ?_, ?_⟩
      · have harr := run_arr84 (some ⟨b0, o0, none⟩) 128 c' (by omega) w'; go_simp <;> with_reducible rfl
      simp only [Act.put, List.setIfInBounds_toArray, List.set_cons_zero, List.set_cons_succ]
      refine takeW (i := 4) (oi := { dst := some 13, op := Op.load 84 (Operand.tmp 12), type := 84, pos := "sha.go:47", after := #[{ on := 3, ground := Ground.data }], guard := none }) (.agg (bcs ((l.drop (128 * k)).take 128)).toArray) rfl (by kernel_rfl) (by kernel_rfl) (by kernel_rfl) (by kernel_rfl) (fun _ _ _ h => h) (by rfl) (fun w' hk => exec_load 84 (.tmp 12) rfl b0 o0 rfl (bcs ((l.drop (128 * k)).take 128)) (HC4.out w' hk) _ under84 rfl HSz4.out) ?_
      simp only [Act.put, List.setIfInBounds_toArray, List.set_cons_zero, List.set_cons_succ]
      refine callW (i := 5) (oi := { dst := some 14, op := Op.call { callee := Callee.value (Operand.func 47), args := #[Operand.tmp 9, Operand.tmp 13], argTypes := #[64, 84] }, type := 64, pos := "sha.go:47", after := #[{ on := 0, ground := Ground.data }, { on := 4, ground := Ground.data }], guard := none }) rfl (by kernel_rfl) (by rfl) ?_ ((piece_any (runN s l k) (runN_fits s l hs k) ((l.drop (128 * k)).take 128) HL4.out _).mono ?_)
      · go_simp
      rintro e5 w5 ⟨rfl, hb5⟩
      refine ⟨_, rfl, fun _ => hb5, ?_⟩
      simp only [Act.put, List.setIfInBounds_toArray, List.set_cons_zero, List.set_cons_succ]
      have H5 := Lib.hid (H.out.below ((below_drewN' (Below.refl wr.heap.size wr) 1).trans hb5))
      clear hb5 HC0 HSz0 HC4 HSz4 HCC
      rw [show piece (runN s l k) ((l.drop (128 * k)).take 128) = runN s l (k + 1) from rfl]
      refine storeW_all (i := 6) (oi := { dst := none, op := Op.store 64 (Operand.tmp 2) (Operand.tmp 14), type := 0, pos := "sha.go:47", after := #[{ on := 5, ground := Ground.data }, { on := 5, ground := Ground.chain }, { on := 0, ground := Ground.phase }, { on := 1, ground := Ground.phase }, { on := 2, ground := Ground.phase }, { on := 3, ground := Ground.phase }, { on := 4, ground := Ground.phase }, { on := 5, ground := Ground.phase }], guard := none }) rfl (by kernel_rfl) rfl 64 (.tmp 2) (.tmp 14) rfl w.heap.size rfl (ucs (runN s l (k + 1)).words).toArray rfl 64 (ucs (runN s l k).words).toArray H5.out.st (sz64 _) (fit64 _ _) (ucs_one _) rfl ?_
      intro w6 hh6 hg6 hz6
      simp only [Act.put]
      refine doneW (by kernel_rfl) ?_ _
      have H6 : Hid (Pz w.heap.size w (runN s l (k + 1)) w6) := by
        have h5 := H5.out
        have := h5.lt
        exact ⟨hh6, (hg6.block _ (by omega) (by simp)).trans h5.res, by omega, h5.bel.grown hg6 (by omega) (fun r hr => by injection hr; omega)⟩
      clear hh6 hg6 hz6 H5
      have HS2 : Hid (Src w6 S (if c' = 128 then some ⟨b0, o0, none⟩ else (some (⟨b0, o0, none⟩ : Addr)).map (·.add 128)) (n - 128 * (k + 1)) (bcs (l.drop (128 * (k + 1))))) := by
        have h0 := HSR.out.drop_ (c := c') 128 hlt1 hc1
        rw [← bcs_drop, List.drop_drop, show 128 * k + 128 = 128 * (k + 1) from by omega, show n - 128 * k - 128 = n - 128 * (k + 1) from by omega] at h0
        exact h0.keep (fun b o hb => (H6.out.bel.cell (p := ⟨b, o, none⟩) (hS b hb)).trans (H.out.bel.cell (p := ⟨b, o, none⟩) (hS b hb)).symm) (fun _ h => h)
      have HSH2 := Lib.hid (HSH.out.succ' hcc')
      clear H HSR HSH HT HL4 hb0 hb0'
      have e1 : n - 128 * k - 128 = n - 128 * (k + 1) := by omega
      have E1 := Lib.hid e1
      clear e1
      by_cases hcq : c' = 128
      · rw [if_pos hcq] at HS2 HSH2
        subst hcq
        go_wp2
        go_roundw
        case rel =>
          have e0 : n - 128 * (k + 1) = 0 := by omega
          exact ⟨k + 1, some ⟨b0, o0, none⟩, 0, by omega, by rw [e0], by omega, by unfold maxLen; omega, HS2.out, HSH2.out, H6.out⟩
        case measure => simp; omega
      · rw [if_neg hcq] at HS2 HSH2
        go_wp2
        go_roundw
        case rel =>
          have hadd : (some (⟨b0, o0, none⟩ : Addr)).map (·.add 128) = some ⟨b0, o0 + 128, none⟩ := rfl
          rw [hadd] at HS2 HSH2
          exact ⟨k + 1, some ⟨b0, o0 + 128, none⟩, c' - 128, by omega, by rw [E1.out], by have := E1.out; omega, by omega, HS2.out, HSH2.out, H6.out⟩
        case measure => simp; omega
    · have hm : n - 128 * k < 128 := by omega
      have hq : n / 128 = k := by omega
      have hr : n % 128 = n - 128 * k := by omega
      have HQ := Lib.hid hq
      have HR := Lib.hid hr
      have hmi : ((n - 128 * k : Nat) : Int) < 128 := by omega
      have HC0 : Hid (∀ i u, (ucs (runN s l k).words)[i]? = some u → wr.cell? ⟨w.heap.size, 0 + i, none⟩ = some u) := fun i u hu => by
        rw [Nat.zero_add]
        exact row_cells H.out.st i u (by simpa using hu)
      have HSz0 : Hid ((Try.prog.info? 64).map (·.size) = some (ucs (runN s l k).words).length) := by rw [size64, ucs_len]; exact rfl
      clear hge hq hr hm hlt1
      go_wp2_with (first | ((with_reducible show wpList _ _ _ (⟨_, .load 64 (.tmp 2), _, _, _, _⟩ :: _) _ _); refine wpList_load_arr rfl 64 (.tmp 2) rfl w.heap.size 0 rfl (ucs (runN s l k).words) HC0.out _ under64 rfl HSz0.out ?_) | ((with_reducible show wpList _ _ _ (⟨none, .store 64 (.tmp 4) (.tmp 17), _, _, _, _⟩ :: _) _ _); refine wpList_store_all rfl 64 (.tmp 4) (.tmp 17) rfl (w.heap.size + 1) rfl (ucs (runN s l k).words).toArray rfl 64 (zw 8) H.out.res (sz64 _) rfl (ucs_one _) ?_; intro w3 hh3 hg3 hz3))
      have H3 := Lib.hid hh3
      have G3 := Lib.hid hg3
      clear hh3 hg3
      go_wp2
      refine bodyPost_ret (results_cell_slot rfl _ _ (w.heap.size + 1) 64 (ucs (runN s l k).words).toArray _ _ (.slice A' (n - 128 * k) c') rfl H3.out rfl under64 rfl (sz64 _)) rfl ?_
      have hb3 : Below w.heap.size w w3 := H.out.bel.grown G3.out (by omega) (fun r hr => by injection hr; omega)
      refine ⟨A', c', by rw [HQ.out, HR.out], by rw [HR.out]; exact hc1, hc2, ?_, by rw [HQ.out]; exact HSH.out, hb3⟩
      rw [HR.out, HQ.out]
      exact HSR.out.keep (fun b o hb => (hb3.cell (p := ⟨b, o, none⟩) (hS b hb)).trans (H.out.bel.cell (p := ⟨b, o, none⟩) (hS b hb)).symm) (fun _ h => h)
end Go.Proofs.Ytkglicidjdifkaa
