/- The bytes of a record. No statement is proved here. -/
import Derived.Test.YtkglicidjdifkaaRF
namespace Go.Proofs.Ytkglicidjdifkaa
open Go.RowKit
set_option linter.unusedVariables false
set_option linter.unusedSimpArgs false
theorem results_tct {P : Program} {fn : Func} {p q r : Tmp} {ty : TypeId} (h : fn.results = #[.tmp p, .cell q ty, .tmp r]) (tmps : Array Value) (w : World) (g : Nat) (t : TypeId) (cs : Array Value) (fr : Nat × Nat) (d : TypeDesc) (u v : Value)
    (hu0 : tmps.getD p undef = u) (hp : tmps.getD q undef = .pointer (some ⟨g, 0, none⟩)) (hg : w.heap[g]? = some (.cells cs t fr)) (hv : tmps.getD r undef = v)
    (hu : P.underlying ty = some d) (hd : (match d with | .struct _ | .array _ _ => true | _ => false) = true) (hi : (P.info? ty).map (·.size) = some cs.size) :
    (results fn tmps).run P w = .ok (.tuple #[u, .agg cs, v]) w := by
  have hu0' : tmps[p]?.getD undef = u := by simpa using hu0
  have hp' : tmps[q]?.getD undef = .pointer (some ⟨g, 0, none⟩) := by simpa using hp
  have hv' : tmps[r]?.getD undef = v := by simpa using hv
  simp [results, h, hu0', hp', hv', asAddr, run_loadVar_row w g t ty cs fr d hg hu hd hi]
theorem build23 (w : World) : (Instr.build 23 #[]).run Try.prog w = .ok (.agg (zbs 32)) w := by kernel_rfl
theorem DAt.size {w : World} {g : Nat} {ch : List UInt8} (h : DAt w g ch) : (Try.prog.info? 23).map (·.size) = some (bcs ch).toArray.size := by rw [size23]; simp [bcs_len, h.len]
/-- Rows of the call's own: a digest, a record, a digest that comes out; and the record's data. -/
structure BB (w0 w : World) (g2 g3 g5 : Nat) (ch : List UInt8) (k : UInt8) (A : Option Addr) (n c : Nat) (d : List UInt8) (S : Nat → Prop) (o : List UInt8) : Prop where
  C : DAt w g2 ch
  R : RAt w g3 k A n c
  O : DAt w g5 o
  B : Below w0.heap.size w0 w
  D : Src w S A n (bcs d)
  sl : ∀ b, S b → b < w.heap.size
  n2 : ¬ g2 = g5
  n3 : ¬ g3 = g5
  l5 : w0.heap.size ≤ g5
section
variable {w0 w w' : World} {g2 g3 g5 : Nat} {ch : List UInt8} {k : UInt8} {A : Option Addr} {n c : Nat} {d : List UInt8} {S : Nat → Prop} {o : List UInt8}
theorem BB.below (h : BB w0 w g2 g3 g5 ch k A n c d S o) (hb : Below w.heap.size w w') : BB w0 w' g2 g3 g5 ch k A n c d S o :=
  ⟨h.C.below hb h.C.lt, h.R.below hb h.R.lt, h.O.below hb h.O.lt, h.B.trans (hb.mono h.B.size), h.D.below' hb h.sl, fun b hb' => Nat.lt_of_lt_of_le (h.sl b hb') hb.size, h.n2, h.n3, h.l5⟩
theorem BB.grown (h : BB w0 w g2 g3 g5 ch k A n c d S o) {r : Nat} (hg : w.grownBy w' (some r)) (h2 : r ≠ g2) (h3 : r ≠ g3) (h5 : r ≠ g5) (hr : w0.heap.size ≤ r) (hS : ∀ b, S b → b ≠ r) : BB w0 w' g2 g3 g5 ch k A n c d S o :=
  ⟨h.C.grown hg (fun r e => by cases e; exact h2), h.R.grown hg (fun r e => by cases e; exact h3), h.O.grown hg (fun r e => by cases e; exact h5), h.B.grown hg h.B.size (fun r e => by cases e; exact hr), h.D.grown hg (fun b hb => ⟨h.sl b hb, fun e => by injection e with e; exact hS b hb e⟩) (fun _ hb => hb), fun b hb => Nat.lt_of_lt_of_le (h.sl b hb) hg.size, h.n2, h.n3, h.l5⟩
theorem BB.start {w1 w2 w3 : World} (hS : ∀ b, S b → b < w0.heap.size) (hD : Src w0 S A n (bcs d)) (hC : DAt w1 w0.heap.size ch) (hR : RAt w2 w1.heap.size k A n c) (hO : DAt w3 w2.heap.size o) (b1 : Below w0.heap.size w0 w1) (b2 : Below w1.heap.size w1 w2) (b3 : Below w2.heap.size w2 w3)
    (z1 : w1.heap.size = w0.heap.size + 1) (z2 : w2.heap.size = w1.heap.size + 1) (z3 : w3.heap.size = w2.heap.size + 1) : BB w0 w3 w0.heap.size w1.heap.size w2.heap.size ch k A n c d S o :=
  have B : Below w0.heap.size w0 w3 := (b1.trans (b2.mono b1.size)).trans (b3.mono (by omega))
  ⟨(hC.below b2 (by omega)).below b3 (by omega), hR.below b3 (by omega), hO, B, hD.below' B hS, fun b hb => by have := hS b hb; omega, by omega, by omega, by omega⟩
end
/-- What Bytes gives. -/
def BytesGives (w : World) (ch : List UInt8) (k : UInt8) (n : Nat) (d : List UInt8) (e : Ending) (w' : World) : Prop :=
  (okR k n = true → ∃ v, e = .returned (.tuple #[v, .agg (bcs (nextL ch k d)).toArray, .int .i64 0]) ∧ OwnB w' w.heap.size v (recB ch k d)) ∧
  (okR k n = false → e = .returned (.tuple #[.slice none 0 0, .agg (bcs (List.replicate 32 0)).toArray, .int .i64 2])) ∧ Below w.heap.size w w'
set_option maxRecDepth 100000 in
set_option maxHeartbeats 2000000 in
theorem bytes_any (w : World) (S : Nat → Prop) (ch : List UInt8) (hl : ch.length = 32) (k : UInt8) (A : Option Addr) (n c : Nat) (d : List UInt8) (hs : Src w S A n (bcs d)) (hS : ∀ b, S b → b < w.heap.size) (hc : n ≤ c ∧ c ≤ maxLen) (hn : n ≤ 100000000) :
    Calls Try.prog 8 #[.agg (bcs ch).toArray, vR k A n c] w (BytesGives w ch k n d) := by
  have hdn : d.length = n := src_len hs
  have HDN := Lib.hid hdn
  have HNL := Lib.hid (nextL_len ch k d)
  have HLEN : Hid ([hdL k n, d, (nextL ch k d).take 8].flatten.length ≤ 2000000000) := by simp [Hid, hdL_len, hdn, nextL_len]; have := sz_le n; omega
  have HL0 : Hid (0 < [hdL k n, d, (nextL ch k d).take 8].flatten.length) := by simp [Hid, hdL_len, hdn, nextL_len]; omega
  have HRB : Hid ([hdL k n, d, (nextL ch k d).take 8].flatten = recB ch k d) := by simp [Hid, recB, hdn]
  have HSD := Lib.hid hs
  have HL := Lib.hid hl
  have CK := Lib.hid (fun W => check_any W k A n c (by omega))
  have CN := Lib.hid (fun (W : World) (h : Src W S A n (bcs d)) (h2 : ∀ b, S b → b < W.heap.size) => next_any W S ch hl k A n c d h h2 hc hn)
  clear hs hl hdn
  unfold vR at *
  cases hok : okR k n
  · have CK2 : Hid (∀ W : World, Calls Try.prog 13 #[.agg #[.int .u8 (k.toNat : Int), .slice A n c]] W fun e w' => e = .returned (.int .i64 2) ∧ Below W.heap.size W w') := Lib.hid (fun W => by have := CK.out W; rw [hok] at this; exact this)
    have HOK := Lib.hid hok
    clear CK hok
    go_enter Try.func8, Try.ntmps8
    go_wp2_with (first | (with_reducible refine wpList_box_row rfl 23 _ rfl _ rfl ?_; intro w1 hh1 hz1 hg1; have HC1 := Lib.hid (DAt.mk hh1 HL.out); have HB1 := Lib.hid (below_of_grownBy hg1); have HZ1 := Lib.hid hz1; clear hg1 hh1 hz1) | (with_reducible refine wpList_box_row rfl 31 _ rfl _ rfl ?_; intro w2 hh2 hz2 hg2; have HR2 := Lib.hid (RAt.mk hh2); have HB2 := Lib.hid (below_of_grownBy hg2); have HZ2 := Lib.hid hz2; clear hg2 hh2 hz2) | (with_reducible refine wpList_alloc_row rfl 23 rfl (.agg (zbs 32)) zero23 ?_; intro w3 hh3 hz3 hg3; have HO := Lib.hid (DAt.mk (ch := List.replicate 32 0) hh3 (by simp)); have HB3' := Lib.hid (below_of_grownBy hg3); have HZ3 := Lib.hid hz3; have H3 := Lib.hid (BB.start hS HSD.out HC1.out HR2.out HO.out HB1.out HB2.out HB3'.out HZ1.out HZ2.out HZ3.out); clear hg3 hh3 hz3 HO HC1 HR2 HB1 HB2 HB3') | ((with_reducible show wpList _ _ _ (⟨_, .load 31 (.tmp 3), _, _, _, _⟩ :: _) _ _); refine wpList_exec rfl _ (exec_rec rfl rfl H3.out.R) ?_))
    refine (CK2.out w3).mono ?_
    rintro e4 w4 ⟨rfl, hb4⟩
    have H4 := Lib.hid (H3.out.below hb4)
    clear hb4 CK2 H3
    generalize w1.heap.size = g3 at *
    generalize w2.heap.size = g5 at *
    have hq := build23
    go_wp2_with ((with_reducible show wpList _ _ _ (⟨none, .store 23 (.tmp 5) (.tmp 13), _, _, _, _⟩ :: _) _ _); refine wpList_store_all rfl 23 (.tmp 5) (.tmp 13) rfl g5 rfl (zbs 32) rfl 23 _ H4.out.O.row (by rw [size23]; rfl) rfl (by rw [bcs_zero]; simpa using bcs_one _) ?_; intro w6 hh6 hg6 hz6; have H6 := Lib.hid hh6; have G6 := Lib.hid hg6; clear hh6 hg6 hz6)
    refine bodyPost_ret (results_tct rfl _ _ g5 23 (bcs (List.replicate 32 0)).toArray _ _ _ _ rfl rfl H6.out rfl under23 rfl (by rw [size23]; rfl)) rfl ?_
    refine ⟨fun h => (by rw [HOK.out] at h; cases h), fun _ => rfl, ?_⟩
    exact H4.out.B.grown G6.out H4.out.B.size (fun r e => by injection e with e; subst e; exact H4.out.l5)
  · have CK2 : Hid (∀ W : World, Calls Try.prog 13 #[.agg #[.int .u8 (k.toNat : Int), .slice A n c]] W fun e w' => e = .returned (.int .i64 0) ∧ Below W.heap.size W w') := Lib.hid (fun W => by have := CK.out W; rw [hok] at this; exact this)
    have HOK := Lib.hid hok
    clear CK hok
    go_enter Try.func8, Try.ntmps8
    go_wp2_with (first | (with_reducible refine wpList_box_row rfl 23 _ rfl _ rfl ?_; intro w1 hh1 hz1 hg1; have HC1 := Lib.hid (DAt.mk hh1 HL.out); have HB1 := Lib.hid (below_of_grownBy hg1); have HZ1 := Lib.hid hz1; clear hg1 hh1 hz1) | (with_reducible refine wpList_box_row rfl 31 _ rfl _ rfl ?_; intro w2 hh2 hz2 hg2; have HR2 := Lib.hid (RAt.mk hh2); have HB2 := Lib.hid (below_of_grownBy hg2); have HZ2 := Lib.hid hz2; clear hg2 hh2 hz2) | (with_reducible refine wpList_alloc_row rfl 23 rfl (.agg (zbs 32)) zero23 ?_; intro w3 hh3 hz3 hg3; have HO := Lib.hid (DAt.mk (ch := List.replicate 32 0) hh3 (by simp)); have HB3' := Lib.hid (below_of_grownBy hg3); have HZ3 := Lib.hid hz3; have H3 := Lib.hid (BB.start hS HSD.out HC1.out HR2.out HO.out HB1.out HB2.out HB3'.out HZ1.out HZ2.out HZ3.out); clear hg3 hh3 hz3 HO HC1 HR2 HB1 HB2 HB3') | ((with_reducible show wpList _ _ _ (⟨_, .load 31 (.tmp 3), _, _, _, _⟩ :: _) _ _); refine wpList_exec rfl _ (exec_rec rfl rfl H3.out.R) ?_))
    refine (CK2.out w3).mono ?_
    rintro e4 w4 ⟨rfl, hb4⟩
    have H4 := Lib.hid (H3.out.below hb4)
    clear hb4 CK2 H3
    generalize w1.heap.size = g3 at *
    generalize w2.heap.size = g5 at *
    go_wp2_with (first | ((with_reducible show wpList _ _ _ (⟨_, .load 31 (.tmp 3), _, _, _, _⟩ :: _) _ _); refine wpList_exec rfl _ (exec_rec rfl rfl H4.out.R) ?_) | ((with_reducible show wpList _ _ _ (⟨_, .load 23 (.tmp 2), _, _, _, _⟩ :: _) _ _); refine wpList_exec rfl _ (exec_dig rfl rfl H4.out.C) ?_))
    refine (CN.out w4 H4.out.D H4.out.sl).mono ?_
    rintro e5 w5 ⟨rfl, hb5⟩
    have H5 := Lib.hid (H4.out.below hb5)
    clear hb5 CN H4
    go_wp2_with (first | (with_reducible refine wpList_alloc_row rfl 23 rfl (.agg (zbs 32)) zero23 ?_; intro w6 hh6 hz6 hg6; have HE6 := Lib.hid (DAt.mk (ch := List.replicate 32 0) hh6 (by simp)); have H6 := Lib.hid (H5.out.below (below_of_grownBy hg6)); have HZ6 := Lib.hid hz6; clear hg6 hh6 hz6) | ((with_reducible show wpList _ _ _ (⟨none, .store 23 (.tmp 8) (.tmp 17), _, _, _, _⟩ :: _) _ _); refine wpList_store_all rfl 23 (.tmp 8) (.tmp 17) rfl w5.heap.size rfl (bcs (nextL ch k d)).toArray rfl 23 _ HE6.out.row (by rw [size23]; simp [bcs_len, HNL.out]) (by simp [bcs_len, HNL.out]) (by simpa using bcs_one _) ?_; intro w7 hh7 hg7 hz7; have HE7 := Lib.hid (DAt.mk hh7 HNL.out); have H7 := Lib.hid (H6.out.grown hg7 (by have := H5.out.C.lt; omega) (by have := H5.out.R.lt; omega) (by have := H5.out.O.lt; omega) H5.out.B.size (fun b hb => by have := H5.out.sl b hb; omega)); clear hh7 hg7 hz7))
    have HNE : Hid (¬ w5.heap.size = g5) := by have := H5.out.O.lt; show ¬ _; omega
    clear H5 HE6 H6
    refine anyStart (fun b => b = g5) (by kernel_rfl) ?_
    refine anyTake (i := 0) (oi := { dst := some 18, op := Op.load 31 (Operand.tmp 3), type := 31, pos := "record.go:45", after := #[], guard := none }) rfl (by kernel_rfl) (by kernel_rfl) (by kernel_rfl) (fun _ _ _ h => h) (by rfl) (fun w' hk => exec_rec rfl rfl (H7.out.R.drew.keeps hk H7.out.n3)) ?_
    simp only [Act.put, List.setIfInBounds_toArray, List.set_cons_zero, List.set_cons_succ]
    refine anyTakeE (i := 2) (oi := { dst := some 20, op := Op.fieldAddr 31 (Operand.tmp 3) 1, type := 0, pos := "record.go:45", after := #[], guard := none }) rfl (by kernel_rfl) (by kernel_rfl) (by kernel_rfl) (fun _ _ _ _ h => h) (by rfl) ?_
    apply Exists.intro
    refine ⟨fun w' hk => ?_, ?_⟩
    · go_simp <;> with_reducible rfl
    simp only [Act.put, List.setIfInBounds_toArray, List.set_cons_zero, List.set_cons_succ]
    refine anyTake (i := 3) (oi := { dst := some 21, op := Op.load 26 (Operand.tmp 20), type := 26, pos := "record.go:45", after := #[{ on := 2, ground := Ground.data }], guard := none }) rfl (by kernel_rfl) (by kernel_rfl) (by kernel_rfl) (fun _ _ _ h => h) (by rfl) (fun w' hk => exec_one rfl rfl (Try.isAgg26 w') (H7.out.R.drew.keeps hk H7.out.n3).c1) ?_
    simp only [Act.put, List.setIfInBounds_toArray, List.set_cons_zero, List.set_cons_succ]
    refine anyTake (i := 4) (oi := { dst := some 22, op := Op.slice 23 (Operand.tmp 8) none (some (Operand.const (Value.int IntKind.i64 8))) none, type := 26, pos := "record.go:45", after := #[], guard := none }) rfl (by kernel_rfl) (by kernel_rfl) (by kernel_rfl) (fun _ _ _ h => h) (by rfl) (fun w' hk => exec_8_23 rfl rfl) ?_
    simp only [Act.put, List.setIfInBounds_toArray, List.set_cons_zero, List.set_cons_succ]
    refine anyTake (i := 7) (oi := { dst := some 25, op := Op.load 23 (Operand.tmp 8), type := 23, pos := "record.go:45", after := #[{ on := 8, ground := Ground.gcOnly Departure.lateStores }], guard := none }) rfl (by kernel_rfl) (by kernel_rfl) (by kernel_rfl) (fun _ _ _ h => h) (by rfl) (fun w' hk => exec_dig rfl rfl (HE7.out.drew.keeps hk HNE.out)) ?_
    simp only [Act.put, List.setIfInBounds_toArray, List.set_cons_zero, List.set_cons_succ]
    refine anyCall (i := 1) (oi := { dst := some 19, op := Op.call { callee := Callee.value (Operand.func 24), args := #[Operand.tmp 18], argTypes := #[31] }, type := 26, pos := "record.go:45", after := #[{ on := 0, ground := Ground.data }], guard := none }) rfl (by kernel_rfl) (by rfl) ?_ ((head_any w7.drew k A n c (by omega)).mono ?_)
    · go_simp
    rintro e8 w8 ⟨v8, rfl, hf8⟩
    obtain ⟨A8, c8, rfl, hc8, hm8, hs8⟩ := hf8.shape
    have hb8 : Below w7.drew.heap.size w7.drew w8 := hf8.2
    have HB8d := Lib.hid hb8
    have HS8 := Lib.hid hs8
    have HM8 := Lib.hid (And.intro hc8 hm8)
    have H8 := Lib.hid (H7.out.below (below_drew hb8))
    have HE8 := Lib.hid (HE7.out.below (below_drew hb8) HE7.out.lt)
    clear hs8 hb8 hf8 hc8 hm8
    refine ⟨_, rfl, Keeps.of_below HB8d.out, ?_⟩
    simp only [Act.put, List.setIfInBounds_toArray, List.set_cons_zero, List.set_cons_succ]
    refine anyVal (i := 5) (oi := { dst := some 23, op := Op.buildSlice 61 3 #[(0, Operand.tmp 19), (1, Operand.tmp 21), (2, Operand.tmp 22)], type := 61, pos := "record.go:45", after := #[{ on := 1, ground := Ground.data }, { on := 3, ground := Ground.data }, { on := 4, ground := Ground.data }], guard := none }) rfl (by kernel_rfl) (by rfl) (exec_three rfl rfl rfl rfl) (Keeps.of_below (below_alloc _ _)) ?_
    simp only [Act.put, List.setIfInBounds_toArray, List.set_cons_zero, List.set_cons_succ]
    have HPT : Parts (w8.alloc (.cells #[.slice A8 (hdL k n).length c8, .slice A n c, .slice (some ⟨w5.heap.size, 0, none⟩) 8 32] 26)) (· < w8.heap.size + 1) (some ⟨w8.heap.size, 0, none⟩) [hdL k n, d, (nextL ch k d).take 8] := by
      have h3 := (HE8.out.src.take_ 8 (by omega)).weak (S' := (· < w8.heap.size)) (fun b hb => by have := HE8.out.lt; show b < _; omega)
      rw [← bcs_takeD] at h3
      refine trip_parts (S := (· < w8.heap.size)) (HS8.out.weak (fun b hb => hb.2)) (H8.out.D.weak (fun b hb => H8.out.sl b hb)) h3 (fun b hb => hb) HM8.out hc ⟨by omega, by simp [maxLen]⟩
    refine anyCall (i := 6) (oi := { dst := some 24, op := Op.call { callee := Callee.value (Operand.func 23), args := #[Operand.tmp 23], argTypes := #[61] }, type := 26, pos := "record.go:45", after := #[{ on := 5, ground := Ground.data }, { on := 1, ground := Ground.chain }], guard := none }) rfl (by kernel_rfl) (by rfl) ?_ ((concat_any [hdL k n, d, (nextL ch k d).take 8] (w8.alloc (.cells #[.slice A8 (hdL k n).length c8, .slice A n c, .slice (some ⟨w5.heap.size, 0, none⟩) 8 32] 26)) (· < w8.heap.size + 1) (some ⟨w8.heap.size, 0, none⟩) 3 HPT (fun b hb => by simpa using hb) HL0.out HLEN.out (by simp)).mono ?_)
    · go_simp
    rintro e9 w9 ⟨v9, rfl, ho9, hb9⟩
    have HO9 := Lib.hid ho9
    have HB9 := Lib.hid hb9
    have H9 := Lib.hid ((H8.out.below (below_alloc w8 _)).below hb9)
    clear hb9 ho9
    refine ⟨_, rfl, Keeps.of_below HB9.out, ?_⟩
    simp only [Act.put, List.setIfInBounds_toArray, List.set_cons_zero, List.set_cons_succ]
    refine anyTakeE (i := 8) (oi := { dst := some 4, op := Op.assign (Operand.tmp 24), type := 26, pos := "record.go:45", after := #[{ on := 6, ground := Ground.data }, { on := 6, ground := Ground.chain }, { on := 0, ground := Ground.phase }, { on := 1, ground := Ground.phase }, { on := 2, ground := Ground.phase }, { on := 3, ground := Ground.phase }, { on := 4, ground := Ground.phase }, { on := 5, ground := Ground.phase }, { on := 6, ground := Ground.phase }, { on := 7, ground := Ground.textOnly Departure.lateStores }], guard := none }) rfl (by kernel_rfl) (by kernel_rfl) (by kernel_rfl) (fun _ _ _ _ h => h) (by rfl) ?_
    apply Exists.intro
    refine ⟨fun w' hk => ?_, ?_⟩
    · go_simp <;> with_reducible rfl
    simp only [Act.put, List.setIfInBounds_toArray, List.set_cons_zero, List.set_cons_succ]
    refine anyStoreD (i := 9) (oi := { dst := none, op := Op.store 23 (Operand.tmp 5) (Operand.tmp 25), type := 0, pos := "record.go:45", after := #[{ on := 7, ground := Ground.data }, { on := 8, ground := Ground.chain }, { on := 0, ground := Ground.phase }, { on := 1, ground := Ground.phase }, { on := 2, ground := Ground.phase }, { on := 3, ground := Ground.phase }, { on := 4, ground := Ground.phase }, { on := 5, ground := Ground.phase }, { on := 6, ground := Ground.phase }, { on := 7, ground := Ground.phase }, { on := 8, ground := Ground.phase }], guard := none }) rfl (by kernel_rfl) (by rfl) (.tmp 5) (.tmp 25) rfl rfl rfl H9.out.O HNL.out rfl ?_
    intro w10 hd10 hg10 hz10
    simp only [Act.put, List.setIfInBounds_toArray, List.set_cons_zero, List.set_cons_succ]
    refine anyTakeE (i := 10) (oi := { dst := some 6, op := Op.assign (Operand.const (Value.int IntKind.i64 0)), type := 27, pos := "record.go:45", after := #[{ on := 9, ground := Ground.chain }, { on := 0, ground := Ground.phase }, { on := 1, ground := Ground.phase }, { on := 2, ground := Ground.phase }, { on := 3, ground := Ground.phase }, { on := 4, ground := Ground.phase }, { on := 5, ground := Ground.phase }, { on := 6, ground := Ground.phase }, { on := 7, ground := Ground.phase }, { on := 8, ground := Ground.phase }, { on := 9, ground := Ground.phase }], guard := none }) rfl (by kernel_rfl) (by kernel_rfl) (by kernel_rfl) (fun _ _ _ _ h => h) (by rfl) ?_
    apply Exists.intro
    refine ⟨fun w' hk => ?_, ?_⟩
    · go_simp <;> with_reducible rfl
    simp only [Act.put, List.setIfInBounds_toArray, List.set_cons_zero, List.set_cons_succ]
    refine anyDone (by kernel_rfl) ?_ _
    go_wp2
    refine bodyPost_ret (results_tct rfl _ _ g5 23 (bcs (nextL ch k d)).toArray _ _ _ _ rfl rfl hd10.row rfl under23 rfl hd10.size) rfl ?_
    refine ⟨fun _ => ⟨_, rfl, ?_⟩, fun h => (by rw [HOK.out] at h; cases h), ?_⟩
    · rw [← HRB.out]
      exact OwnB.low (HO9.out.grown hg10 (fun r e => by injection e with e; subst e; rw [World.size_alloc]; have := H8.out.O.lt; omega)) (by have := H8.out.B.size; rw [World.size_alloc]; omega)
    · exact H9.out.B.grown hg10 H9.out.B.size (fun r e => by injection e with e; subst e; exact H9.out.l5)
end Go.Proofs.Ytkglicidjdifkaa
