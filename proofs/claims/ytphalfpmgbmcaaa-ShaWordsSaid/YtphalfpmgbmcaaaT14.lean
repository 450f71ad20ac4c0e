/- The reference's product, walked. No statement is proved here. -/
import Derived.Test.YtphalfpmgbmcaaaT13
import Derived.Test.YtphalfpmgbmcaaaH
namespace Go.Proofs.Ytphalfpmgbmcaaa
open Go.RowKit
set_option linter.unusedVariables false

theorem under70 : Try.prog.underlying 70 = some (.slice 39) := by kernel_rfl
theorem info39 : (Try.prog.info? 39).map (fun i => (i.zero, i.size, i.bytes)) = some (some (.int .u32 0), 1, 4) := by kernel_rfl
theorem size39 : (Try.prog.info? 39).map (·.size) = some 1 := by kernel_rfl

theorem made_zeroD (n : Nat) : madeCells (Value.int .u32 0).cells n = (dcs (List.replicate n 0)).toArray := by
  apply Array.ext
  · simp [madeCells, dcs, Value.cells]
  · intro i h1 h2
    simp [madeCells, dcs, dc, Value.cells, Nat.mod_one]
theorem wpList_makeD {ops : Array Oper} {rest : List Oper} {o : Oper} {a : Act} {w : World} {Q : Exit → Act → World → Prop} (hgd : Region.wanted o (yielded ops a.tmps) = true) (x y : Operand) (ho : o.op = .makeSlice 70 x y) (kl kc : IntKind) (n : Nat) (hx : a.eval x = .int kl (n : Int)) (hy : a.eval y = .int kc (n : Int)) (hc : n ≤ 1099511627)
    (h : ∀ w', w'.heap[w.heap.size]? = some (.cells (dcs (List.replicate n 0)).toArray 39 (0, 0)) → w'.heap.size = w.heap.size + 1 → w.grownBy w' none → wpList Try.prog ops Q rest (a.put o.dst (.slice (some ⟨w.heap.size, 0, none⟩) n n)) w') :
    wpList Try.prog ops Q (o :: rest) a w := by
  obtain ⟨i0, hi, hz0, hz1, hz2⟩ := info_parts info39
  have hr := run_make (P := Try.prog) w 70 39 i0 (.int .u32 0) under70 hi hz0 kl kc n n (by omega) (by omega) (by rw [hz2]; omega) (by omega)
  refine wpList_exec hgd _ (w' := w.alloc (.cells (dcs (List.replicate n 0)).toArray 39)) ?_ (h _ (heap_alloc_new w _) (by simp) (World.grownBy_alloc w _ none))
  unfold execOp
  simp only [ho, hx, hy, Sem.run_bind, Sem.run_pure, Result.andThen_ok, hr]
  simp [hz1, made_zeroD]

/-- The slice value v reads as l, in a row of its own from block B on. -/
structure OwnD (w : World) (B : Nat) (v : Value) (l : List Nat) : Prop where
  ex : ∃ g cap cur, v = .slice (some ⟨g, 0, none⟩) l.length cap ∧ l.length ≤ cap ∧ cap ≤ maxLen ∧ B ≤ g ∧ w.heap[g]? = some (.cells cur 39 (0, 0)) ∧ cur.size = cap ∧ cur.toList.take l.length = dcs l
def GivesD (w : World) (l : List Nat → Prop) (e : Ending) (w' : World) : Prop := ∃ v o, e = .returned v ∧ OwnD w' w.heap.size v o ∧ l o ∧ Below w.heap.size w w'

/-- The row of a product. -/
structure Row32 (w : World) (o : List Nat) (w' : World) : Prop where
  row : w'.heap[w.heap.size]? = some (.cells (dcs o).toArray 39 (0, 0))
  lt : w.heap.size < w'.heap.size
  bel : Below w.heap.size w w'
theorem Row32.drewN {w w' : World} {o : List Nat} (h : Row32 w o w') (k : Nat) : Row32 w o (w'.drewN k) := ⟨h.row, h.lt, below_drewN' h.bel k⟩
theorem mul_lt32 {x y : Nat} (hx : x < Y32) (hy : y < Y32) : x * y < 18446744073709551616 := by
  have h1 : x * y ≤ (Y32 - 1) * (Y32 - 1) := Nat.mul_le_mul (by omega) (by omega)
  unfold Y32 at *
  omega
/-- The sum as the text makes it. -/
def mac32 (x a b o : Nat) : Int := IntKind.u64.wrap (IntKind.u64.wrap ((x : Int) + IntKind.u64.wrap (IntKind.u64.wrap (a : Int) * IntKind.u64.wrap (b : Int))) + IntKind.u64.wrap (o : Int))
theorem mac32_eq (x a b o : Nat) (h : x + a * b + o < Y32 * Y32) (ha : a < Y32) (hb : b < Y32) : mac32 x a b o = ((x + a * b + o : Nat) : Int) := by
  unfold mac32
  unfold Y32 at *
  have ea : IntKind.u64.wrap (a : Int) = (a : Int) := by rw [IntKind.wrap_u64]; omega
  have eb : IntKind.u64.wrap (b : Int) = (b : Int) := by rw [IntKind.wrap_u64]; omega
  rw [ea, eb, show (a : Int) * (b : Int) = ((a * b : Nat) : Int) from by simp]
  generalize a * b = p at *
  simp only [IntKind.wrap_u64]
  omega
theorem low32 (T : Nat) : (T : Int) % 4294967296 = ((T % Y32 : Nat) : Int) := by unfold Y32; omega
theorem high32 (T : Nat) : (T : Int) / 4294967296 = ((T / Y32 : Nat) : Int) := by unfold Y32; omega
theorem dcs_set (l : List Nat) (k x : Nat) : (dcs l).toArray.setIfInBounds k (.int .u32 (x : Int)) = (dcs (l.set k x)).toArray := by
  rw [List.setIfInBounds_toArray, dcs, dcs, List.map_set]
  rfl
set_option maxRecDepth 100000 in
set_option maxHeartbeats 1000000 in
theorem rmul_any (w : World) (A C : Option Addr) (n c m d : Nat) (a b : List Nat) (ha : Src w (· < w.heap.size) A n (dcs a)) (hb : Src w (· < w.heap.size) C m (dcs b)) (hn : n ≤ 1000) (hm : m ≤ 1000) (la : Lt32 a) (lb : Lt32 b) (h0 : 0 < n) (h1 : 0 < m) :
    Calls Try.prog 51 #[.slice A n c, .slice C m d] w (GivesD w fun o => Lt32 o ∧ o.length = n + m ∧ v32 o = v32 a * v32 b) := by
  have hna : a.length = n := by rw [← ha.len, dcs_len]
  have hnb : b.length = m := by rw [← hb.len, dcs_len]
  subst hna
  subst hnb
  obtain ⟨ba, oa, rfl, hba, _⟩ := ha.lies h0
  obtain ⟨bb, ob, rfl, hbb, _⟩ := hb.lies h1
  have HA := Lib.hid ha
  have HB := Lib.hid hb
  have LA := Lib.hid la
  have LB := Lib.hid lb
  clear ha hb la lb
  go_enter Try.func51, Try.ntmps51
  go_wp2_with (at_make; refine wpList_makeD rfl _ _ rfl .i64 .i64 (a.length + b.length) (by go_num) (by go_num) (by omega) ?_; intro w1 hh1 hz1 hg1)
  rw [show ((a.length : Int) + (b.length : Int)) = ((a.length + b.length : Nat) : Int) from by omega]
  have HI0 := Lib.hid (In32.start a b)
  generalize List.replicate (a.length + b.length) 0 = o0 at *
  have HL0 := Lib.hid HI0.out.len
  have HG : Hid (Row32 w o0 w1) := ⟨hh1, by omega, (Below.refl _ w).grown hg1 (Nat.le_refl _) (by simp)⟩
  clear hh1 hg1 hz1
  go_loopw [6, 7, 8] (fun i _ _ wr => ∃ k : Nat, ∃ o : List Nat, k ≤ a.length ∧ i = .int .i64 k ∧ In32 a b k 0 0 o ∧ Row32 w o wr) (fun i _ _ _ => a.length - (intOf i).toNat)
  case atStart => exact ⟨0, o0, by omega, rfl, HI0.out, HG.out⟩
  case round =>
    obtain ⟨k, o, hk, rfl, hinv, hrow⟩ := hrel
    have HI := Lib.hid hinv
    have HR := Lib.hid hrow
    clear hinv hrow HG HI0 HL0
    by_cases hlt : k < a.length
    · go_wp2_with fail
      obtain ⟨wo, hwo⟩ : ∃ wo : World, wo = wr := ⟨_, rfl⟩
      rw [← hwo] at HR ⊢
      clear hwo
      go_loopw [7, 8] (fun cy j wr => ∃ q : Nat, ∃ x : Nat, ∃ o : List Nat, q ≤ b.length ∧ j = .int .i64 q ∧ cy = .int .u64 x ∧ In32 a b k q x o ∧ Row32 w o wr) (fun _ j _ => b.length - (intOf j).toNat)
      case atStart => exact ⟨0, 0, o, by omega, rfl, rfl, HI.out, HR.out⟩
      case round =>
        obtain ⟨q, x, o1, hq, rfl, rfl, hinv, hrow⟩ := hrel
        have HI1 := Lib.hid hinv
        have HR1 := Lib.hid hrow
        clear hinv hrow HI HR
        by_cases hlt1 : q < b.length
        · have ca : wr.cell? ⟨ba, oa + k, none⟩ = some (.int .u32 (a.getD k 0 : Nat)) := by
            obtain ⟨_, _, e, h⟩ := (HA.out.below HR1.out.bel (S' := fun _ => True) (fun _ _ => trivial)).word k hlt
            injection e with e; injection e with e1 e2; subst e1; subst e2; exact h
          have cb : wr.cell? ⟨bb, ob + q, none⟩ = some (.int .u32 (b.getD q 0 : Nat)) := by
            obtain ⟨_, _, e, h⟩ := (HB.out.below HR1.out.bel (S' := fun _ => True) (fun _ _ => trivial)).word q hlt1
            injection e with e; injection e with e1 e2; subst e1; subst e2; exact h
          have co : wr.cell? ⟨w.heap.size, k + q, none⟩ = some (.int .u32 (o1.getD (k + q) 0 : Nat)) := by
            refine row_cells HR1.out.row (k + q) _ ?_
            rw [List.toList_toArray, dcs_get, List.getD_eq_getElem?_getD, List.getElem?_eq_getElem (by have := HI1.out.len; omega)]
            rfl
          have HCOL := Lib.hid (HI1.out.col hlt hlt1 LA.out LB.out)
          have HLA := Lib.hid (LA.out.get k)
          have HLB := Lib.hid (LB.out.get q)
          have HLO := Lib.hid (HI1.out.lt.get (k + q))
          generalize a.getD k 0 = ak at *
          generalize b.getD q 0 = bq at *
          generalize o1.getD (k + q) 0 = ok at *
          have HM := Lib.hid (mul_lt32 HLA.out HLB.out)
          have CA := Lib.hid ca
          have CB := Lib.hid cb
          have CO := Lib.hid co
          clear ca cb co
          go_wp2_with fail
          have ca := CA.out
          have cb := CB.out
          have co := CO.out
          go_quiet (fail)
          clear ca cb co CA CB CO
          have HR2 := Lib.hid (HR1.out.drewN nq)
          generalize wr.drewN nq = w2 at *
          have HE := Lib.hid (mac32_eq x ak bq ok HCOL.out.1 HLA.out HLB.out)
          generalize hT : x + ak * bq + ok = T at *
          have HT := Lib.hid hT
          clear hT
          simp only [mac32] at HE
          rw [HE.out]
          have HTL : Hid (T < 18446744073709551616) := HCOL.out.1
          have ht0 : (0 : Int) ≤ (T : Int) := by omega
          have HV := Lib.hid (low32 T)
          have HW := Lib.hid (high32 T)
          go_wp2_with ((with_reducible show wpList _ _ _ (⟨none, .store 39 (.tmp 55) (.tmp 54), _, _, _, _⟩ :: _) _ _); go_must (rw [HV.out]; refine wpList_store_one rfl 39 (.tmp 55) (.tmp 54) rfl w.heap.size (k + q) rfl .u32 _ rfl 39 _ HR2.out.row size39 (by simp [dcs_len]; have := HI1.out.len; omega) ?_; intro w3 hh3 hg3 hz3; rw [dcs_set] at hh3; have H3 : Hid (Row32 w (o1.set (k + q) (T % Y32)) w3) := ⟨hh3, by have := HR2.out.lt; omega, HR2.out.bel.grown hg3 (Nat.le_of_lt HR2.out.lt) (fun r hr => by injection hr; omega)⟩; clear hh3 hg3 hz3))
          rw [HW.out]
          go_roundw
          case rel =>
            first | exact ⟨q + 1, T / Y32, _, by omega, by go_num, rfl, HCOL.out.2, H3.out⟩ | ((repeat apply Exists.intro); exact ⟨⟨q + 1, T / Y32, _, by omega, by go_num, rfl, HCOL.out.2, H3.out⟩, rfl⟩)
          case measure => simp [intOf]; omega
        · obtain rfl : q = b.length := by omega
          clear hlt1 hq
          have HROW := Lib.hid (HI1.out.row hlt h1)
          have HLN := Lib.hid HI1.out.len
          have HXL : Hid (x < Y32) := HI1.out.cy_lt
          have HX : Hid ((x : Int) % 4294967296 = (x : Int)) := by have := HXL.out; unfold Y32 at this; exact Int.emod_eq_of_lt (by omega) (by omega)
          clear HI1
          go_wp2_with ((with_reducible show wpList _ _ _ (⟨none, .store 39 (.tmp 65) (.tmp 64), _, _, _, _⟩ :: _) _ _); go_must (rw [HX.out]; refine wpList_store_one rfl 39 (.tmp 65) (.tmp 64) rfl w.heap.size (k + b.length) rfl .u32 _ rfl 39 _ HR1.out.row size39 (by simp [dcs_len]; have := HLN.out; omega) ?_; intro w3 hh3 hg3 hz3; rw [dcs_set] at hh3; have H3 : Hid (Row32 w (o1.set (k + b.length) x) w3) := ⟨hh3, by have := HR1.out.lt; omega, HR1.out.bel.grown hg3 (Nat.le_of_lt HR1.out.lt) (fun r hr => by injection hr; omega)⟩; clear hh3 hg3 hz3))
          go_roundw
          case rel =>
            first | exact ⟨k + 1, _, by omega, by go_num, HROW.out, H3.out⟩ | ((repeat apply Exists.intro); exact ⟨⟨k + 1, _, by omega, by go_num, HROW.out, H3.out⟩, rfl⟩)
          case measure => simp [intOf]; omega
    · obtain rfl : k = a.length := by omega
      clear hlt hk
      have HLN := Lib.hid HI.out.len
      go_wp2
      go_ret
      refine ⟨_, o, rfl, ⟨_, _, _, ?_, ?_, ?_, Nat.le_refl _, HR.out.row, rfl, ?_⟩, ⟨HI.out.lt, HLN.out, HI.out.done⟩, HR.out.bel⟩
      · rw [HLN.out]; simp [dcs_len, HLN.out]
      · simp [dcs_len]
      · simp [dcs_len, HLN.out, maxLen]; omega
      · simp [dcs_len, List.take_of_length_le]
end Go.Proofs.Ytphalfpmgbmcaaa
