/- The reference's root, walked. No statement is proved here. -/
import Derived.Test.YtphalfpmgbmcaaaT14
namespace Go.Proofs.Ytphalfpmgbmcaaa
open Go.RowKit
set_option linter.unusedVariables false

theorem v32_get (l : List Nat) (h : Lt32 l) (k : Nat) : l.getD k 0 = v32 l / Y32 ^ k % Y32 := by
  rw [v32_div l h k, Nat.mul_add_mod]
  exact (Nat.mod_eq_of_lt (h.get k)).symm
theorem v32_bit (l : List Nat) (hl : l.length = 3) (h : Lt32 l) (q : Nat) (hR : v32 l % 2 ^ (q + 1) = 0) (hq : q < 96) :
    l.getD (q / 32) 0 ||| 2 ^ (q % 32) < Y32 ∧ v32 (l.set (q / 32) (l.getD (q / 32) 0 ||| 2 ^ (q % 32))) = v32 l + 2 ^ q := by
  have hX : Y32 ^ (q / 32) = 2 ^ (32 * (q / 32)) := by rw [Nat.pow_mul]; rfl
  have hm : (l.getD (q / 32) 0) % 2 ^ (q % 32 + 1) = 0 := by
    rw [v32_get l h]
    obtain ⟨m, hm⟩ := Nat.dvd_of_mod_eq_zero hR
    have e : 2 ^ (q + 1) = 2 ^ (32 * (q / 32)) * 2 ^ (q % 32 + 1) := by rw [← Nat.pow_add]; congr 1; omega
    rw [hm, hX, e, Nat.mul_assoc, Nat.mul_div_cancel_left _ (Nat.two_pow_pos _)]
    have hd2 : 2 ^ (q % 32 + 1) ∣ Y32 := by
      show _ ∣ 2 ^ 32
      exact Nat.pow_dvd_pow 2 (by omega)
    rw [Nat.mod_mod_of_dvd _ hd2]
    exact Nat.mul_mod_right _ _
  have hj : l.getD (q / 32) 0 ||| 2 ^ (q % 32) = l.getD (q / 32) 0 + 2 ^ (q % 32) := nat_join (q % 32 + 1) _ _ hm (by rw [Nat.pow_succ]; have := Nat.two_pow_pos (q % 32); omega)
  have hlt : l.getD (q / 32) 0 ||| 2 ^ (q % 32) < Y32 := Nat.or_lt_two_pow (n := 32) (h.get _) (Nat.pow_lt_pow_right (by omega) (by omega))
  refine ⟨hlt, ?_⟩
  have hv := v32_set l (q / 32) (l.getD (q / 32) 0 ||| 2 ^ (q % 32)) (by omega)
  have e : 2 ^ q = 2 ^ (q % 32) * Y32 ^ (q / 32) := by rw [hX, ← Nat.pow_add]; congr 1; omega
  rw [hj, Nat.add_mul, ← e] at hv
  rw [hj]
  omega
/-- The greatest number of 96 bits is the root, too. -/
theorem srch96 (x d : Nat) (hd : 2 ≤ d) (hd3 : d ≤ 3) (hx : x < 4294967296) : srch (x * X64 ^ d) d 96 0 = rootN x d := by
  have h := srch_spec (x * X64 ^ d) d 96 0 (by rw [Nat.zero_pow (by omega)]; exact Nat.zero_le _) (by
    rw [Nat.zero_add]
    have h1 : (2 ^ 96) ^ d = (2 ^ 32) ^ d * X64 ^ d := by rw [← Nat.mul_pow]; rfl
    rw [h1]
    refine Nat.mul_lt_mul_of_pos_right ?_ (Nat.pow_pos X64_pos)
    have h2 : (2 ^ 32) ^ 2 ≤ (2 ^ 32) ^ d := Nat.pow_le_pow_right (by omega) hd
    have h3 : ((2 : Nat) ^ 32) ^ 2 = 18446744073709551616 := by decide
    omega)
  exact (rootN_eq x d _ hd hd3 hx h.1 h.2).symm
theorem bit96 {R q : Nat} (hm : R % 2 ^ (q + 1) = 0) (hle : R + 2 ^ (q + 1) ≤ 2 ^ 96) : R % 2 ^ q = 0 ∧ (R + 2 ^ q) % 2 ^ q = 0 ∧ R + 2 ^ q ≤ 2 ^ 96 ∧ R + 2 ^ q + 2 ^ q ≤ 2 ^ 96 := by
  have h1 : R % 2 ^ q = 0 := by
    have := Nat.mod_mod_of_dvd R (Nat.pow_dvd_pow 2 (show q ≤ q + 1 by omega))
    rw [hm] at this
    simpa using this.symm
  rw [Nat.pow_succ] at hle
  have h0 := Nat.two_pow_pos q
  exact ⟨h1, by rw [Nat.add_mod_right, h1], by omega, by omega⟩
/-- The bound's words. -/
def bnd (x d : Nat) : List Nat := (List.replicate (2 * d + 2) 0).set (2 * d) x
theorem bnd_len (x d : Nat) : (bnd x d).length = 2 * d + 2 := by simp [bnd]
theorem bnd_val (x d : Nat) : v32 (bnd x d) = x * X64 ^ d := by
  have h := v32_set (List.replicate (2 * d + 2) 0) (2 * d) x (by simp)
  rw [v32_zero, Nat.zero_add, List.getD_eq_getElem?_getD, List.getElem?_replicate] at h
  have e : Y32 ^ (2 * d) = X64 ^ d := by rw [Nat.pow_mul]; rfl
  rw [← e]
  simpa [bnd] using h
theorem bnd_lt (x d : Nat) (hx : x < Y32) : Lt32 (bnd x d) := by
  refine Lt32.set ?_ _ _ hx
  intro y hy
  rw [List.eq_of_mem_replicate hy]
  exact Y32_pos

theorem OwnD.src {w : World} {B : Nat} {v : Value} {l : List Nat} (h : OwnD w B v l) : ∃ g cap, v = .slice (some ⟨g, 0, none⟩) l.length cap ∧ B ≤ g ∧ g < w.heap.size ∧ Src w (fun b => b = g) (some ⟨g, 0, none⟩) l.length (dcs l) := by
  obtain ⟨g, cap, cur, rfl, h1, h2, h3, h4, h5, h6⟩ := h.ex
  refine ⟨g, cap, rfl, h3, (Array.getElem?_eq_some_iff.1 h4).1, dcs_len l, fun hn => ⟨g, 0, rfl, rfl, fun i hi => ?_⟩⟩
  rw [cell_of_row w g (0 + i) cur 39 (0, 0) h4, Nat.zero_add, ← h6, List.getElem?_take, if_pos hi]
  simp
theorem OwnD.keep {w w' : World} {B : Nat} {v : Value} {l : List Nat} (h : OwnD w B v l) (hb : Below w.heap.size w w') : OwnD w' B v l := by
  obtain ⟨g, cap, cur, rfl, h1, h2, h3, h4, h5, h6⟩ := h.ex
  exact ⟨g, cap, cur, rfl, h1, h2, h3, (hb.block g (Array.getElem?_eq_some_iff.1 h4).1).trans h4, h5, h6⟩
theorem OwnD.weak {w : World} {B B' : Nat} {v : Value} {l : List Nat} (h : OwnD w B v l) (hB : B' ≤ B) : OwnD w B' v l := by
  obtain ⟨g, cap, cur, rfl, h1, h2, h3, h4, h5, h6⟩ := h.ex
  exact ⟨g, cap, cur, rfl, h1, h2, by omega, h4, h5, h6⟩

theorem dcs_at {l : List Nat} {cur : Array Value} {i : Nat} (h : cur.toList.take l.length = dcs l) (hi : i < l.length) : cur[i]? = some (.int .u32 (l.getD i 0 : Nat)) := by
  have h1 : (cur.toList.take l.length)[i]? = cur.toList[i]? := by rw [List.getElem?_take, if_pos hi]
  rw [h, dcs_get, List.getElem?_eq_getElem hi] at h1
  rw [List.getD_eq_getElem?_getD, List.getElem?_eq_getElem hi, ← Array.getElem?_toList, ← h1]
  rfl
theorem dcs_cell {w : World} {g i : Nat} {cur : Array Value} {u : Value} (h : w.heap[g]? = some (.cells cur 39 (0, 0))) (hi : cur[i]? = some u) : w.cell? ⟨g, i, none⟩ = some u := by
  rw [cell_of_row w g i cur 39 (0, 0) h]
  exact hi
theorem OwnD.src2 {w : World} {B g n c : Nat} {l : List Nat} (h : OwnD w B (.slice (some ⟨g, 0, none⟩) n c) l) : Src w (fun b => b = g) (some ⟨g, 0, none⟩) n (dcs l) ∧ B ≤ g ∧ g < w.heap.size := by
  obtain ⟨g', cap, e, h1, h2, h3⟩ := h.src
  injection e with e1 e2 e3
  injection e1 with e1
  injection e1 with e1
  subst e1
  subst e2
  exact ⟨h3, h1, h2⟩
theorem OwnD.put {w : World} {B g c i x : Nat} {cur : Array Value} {l : List Nat} (hc : cur.size = c) (hm : c ≤ maxLen) (hl : l.length ≤ c) (hB : B ≤ g) (hi : i < l.length) (ht : cur.toList.take l.length = dcs l)
    (hg : w.heap[g]? = some (.cells (cur.setIfInBounds i (.int .u32 (x : Int))) 39 (0, 0))) : OwnD w B (.slice (some ⟨g, 0, none⟩) l.length c) (l.set i x) := by
  refine ⟨g, c, _, by rw [List.length_set], by rw [List.length_set]; exact hl, hm, hB, hg, by rw [Array.size_setIfInBounds]; exact hc, ?_⟩
  rw [List.length_set, Array.toList_setIfInBounds, List.take_set, ht, dcs, dcs, List.map_set]
  rfl
theorem or32 (old r : Nat) (ho : old < Y32) (hr : r ≤ 31) : bits .or .u32 (old : Int) (2 ^ r % 4294967296) = ((old ||| 2 ^ r : Nat) : Int) := by
  have hl : 2 ^ r < 4294967296 := Nat.pow_lt_pow_right (n := 32) (by omega) (by omega)
  have e : ((2 : Int) ^ r % 4294967296) = ((2 ^ r : Nat) : Int) := by
    rw [show ((2 : Int) ^ r) = ((2 ^ r : Nat) : Int) from by simp]
    generalize 2 ^ r = z at *
    omega
  rw [e]
  exact u32_or_nat _ _ ho hl
theorem OwnD.of_row {w : World} {B : Nat} {v : Value} {l : List Nat} (h : w.ownsRow B 39 1 v l.length (dcs l)) (hl : 0 < l.length) : OwnD w B v l := by
  obtain ⟨_, h | ⟨g, cap, cur, rfl, h1, h2, h3, h4, h5, h6⟩⟩ := h
  · omega
  · exact ⟨g, cap, cur, rfl, h3, h4, h1, h2, by omega, by rw [← h6, Nat.mul_one]⟩
theorem wpList_dupD {ops : Array Oper} {rest : List Oper} {o : Oper} {a : Act} {w : World} {Q : Exit → Act → World → Prop} (hgd : Region.wanted o (yielded ops a.tmps) = true) (s x : Operand) (ho : o.op = .call { callee := .builtin .append, args := #[s, x], argTypes := #[70, 70] }) (hv : a.eval s = .slice (some ⟨w.heap.size, 0, none⟩) 0 0)
    (S : Nat → Prop) (A : Option Addr) (m c : Nat) (l : List Nat) (hx : a.eval x = .slice A m c) (hs : Src w S A m (dcs l)) (hS : ∀ b, S b → b < w.heap.size) (hm : 0 < m) (hm2 : m ≤ 1000)
    (h : ∀ v' w', OwnD w' w.heap.size v' l → Below w.heap.size w w' → wpList Try.prog ops Q rest (a.put o.dst v') w') : wpList Try.prog ops Q (o :: rest) a (w.alloc (.cells #[] 39)) := by
  obtain ⟨i0, hi, hz0, hz1, hz2⟩ := info_parts info39
  have hl : l.length = m := by rw [← hs.len, dcs_len]
  have hown : (w.alloc (.cells #[] 39)).ownsRow w.heap.size 39 1 (.slice (some ⟨w.heap.size, 0, none⟩) 0 0) 0 [] :=
    ⟨rfl, .inr ⟨w.heap.size, 0, #[], rfl, Nat.le_refl _, heap_alloc_new w _, Nat.le_refl _, by simp [maxLen], rfl, rfl⟩⟩
  refine wpList_app _ hgd s x 70 ho w.heap.size 39 i0 (.int .u32 0) 4 under70 hi hz0 hz1 hz2 rfl _ 0 [] hv hown S A m c (dcs l) hx (hs.alloc hS _) (dcs_one l) (by unfold maxLen; omega) (by omega) (by simp) ?_
  intro v' w' h1 h2 h3
  subst hl
  rw [Nat.zero_add, List.nil_append] at h1
  refine h v' w' (OwnD.of_row h1 hm) ?_
  exact ((Below.refl _ w).trans (below_alloc w _)).grown h2 (by simp) (fun r hr => by simp [Value.ownBlock] at hr; omega)

/-- The memory of a root: the bound's row. -/
structure Pwr (w : World) (l : List Nat) (w' : World) : Prop where
  row : w'.heap[w.heap.size]? = some (.cells (dcs l).toArray 39 (0, 0))
  lt : w.heap.size < w'.heap.size
  bel : Below w.heap.size w w'
theorem Pwr.src {w : World} {l : List Nat} {w1 : World} {n : Nat} (h : Pwr w l w1) (hn : l.length = n) : Src w1 (fun b => b = w.heap.size) (some ⟨w.heap.size, 0, none⟩) n (dcs l) := by
  refine ⟨by rw [dcs_len]; exact hn, fun _ => ⟨w.heap.size, 0, rfl, rfl, fun i hi => ?_⟩⟩
  rw [cell_of_row w1 w.heap.size (0 + i) _ 39 (0, 0) h.row, Nat.zero_add]
  simp
theorem low64 (l : List Nat) (h : Lt32 l) : l.getD 0 0 + 4294967296 * l.getD 1 0 = v32 l % X64 := by
  have h0 := v32_div l h 0
  have h1 := v32_div l h 1
  have l0 := h.get 0
  have l1 := h.get 1
  simp only [Nat.pow_zero, Nat.div_one, Nat.zero_add, Nat.pow_one] at h0
  rw [Nat.pow_one] at h1
  unfold Y32 X64 at *
  omega
theorem sum64 (a b : Nat) (ha : a < Y32) (hb : b < Y32) : IntKind.u64.wrap (IntKind.u64.wrap (a : Int) + IntKind.u64.wrap (IntKind.u64.wrap (b : Int) * 4294967296)) = ((a + 4294967296 * b : Nat) : Int) := by
  unfold Y32 at *
  simp only [IntKind.wrap_u64]
  omega
theorem Pwr.keep {w : World} {l : List Nat} {w1 w2 : World} (h : Pwr w l w1) (hb : Below w1.heap.size w1 w2) : Pwr w l w2 :=
  ⟨(hb.block _ h.lt).trans h.row, Nat.lt_of_lt_of_le h.lt hb.size, h.bel.trans (hb.mono (Nat.le_of_lt h.lt))⟩
set_option maxRecDepth 100000 in
set_option maxHeartbeats 1000000 in
theorem rpower_any (n d : Nat) (hn : n < 4294967296) (h2 : 2 ≤ d) (h3 : d ≤ 3) (w : World) : Calls Try.prog 43 #[.int .u64 n, .int .i64 d] w (Gives (.int .u64 ((rootN n d % X64 : Nat) : Int)) w) := by
  have HBW : Hid (bnd n d = (List.replicate (2 * d + 2) 0).set (2 * d) n) := rfl
  have HBV := Lib.hid (bnd_val n d)
  have HBL := Lib.hid (bnd_lt n d (by unfold Y32; omega))
  have HBN := Lib.hid (bnd_len n d)
  have HC := Lib.hid (show (n : Int) % 4294967296 = (n : Int) from by omega)
  have HS0 := Lib.hid (srch96 n d h2 h3 hn)
  have hdi : (d : Int) < 4 := by omega
  generalize rootN n d = F at *
  generalize bnd n d = BW at *
  generalize n * X64 ^ d = b at *
  go_enter Try.func43, Try.ntmps43
  have M1 : Hid True := trivial
  have M2 : Hid True := trivial
  go_wp2_with (first | (clear M1; at_make; refine wpList_makeD rfl _ _ rfl .i64 .i64 (2 * d + 2) (by go_num) (by go_num) (by omega) ?_; intro w1 hh1 hz1 hg1; have HZ1 := Lib.hid hz1; have HH1 := Lib.hid hh1; clear hh1) | ((with_reducible show wpList _ _ _ (⟨none, .store 39 (.tmp 21) (.tmp 20), _, _, _, _⟩ :: _) _ _); go_must (rw [HC.out]; refine wpList_store_one rfl 39 (.tmp 21) (.tmp 20) rfl w.heap.size (2 * d) rfl .u32 _ rfl 39 _ HH1.out size39 (by simp [dcs_len]) ?_; intro w2 hh2 hg2 hz2; rw [dcs_set, ← HBW.out] at hh2; have HH2 := Lib.hid hh2; have HZ2 := Lib.hid hz2; clear hh2)) | (clear M2; at_make; refine wpList_makeD rfl _ _ rfl .i64 .i64 3 rfl rfl (by omega) ?_; intro w3 hh3 hz3 hg3; have HZ3 := Lib.hid hz3; have HH3 := Lib.hid hh3; clear hh3))
  have z1 := HZ1.out
  have z2 := HZ2.out
  have z3 := HZ3.out
  have HP : Hid (Pwr w BW w3 ∧ OwnD w3 (w.heap.size + 1) (.slice (some ⟨w.heap.size + 1, 0, none⟩) 3 3) [0, 0, 0]) := by
    have zz : w2.heap.size = w.heap.size + 1 := by omega
    rw [zz] at HH3
    refine ⟨⟨(hg3.block _ (by omega) (by simp)).trans HH2.out, by omega, ?_⟩, ⟨w.heap.size + 1, 3, _, rfl, by simp, by simp [maxLen], by omega, HH3.out, rfl, rfl⟩⟩
    exact (((Below.refl _ w).grown hg1 (Nat.le_refl _) (by simp)).grown hg2 (by omega) (fun r hr => by injection hr; omega)).grown hg3 (by omega) (by simp)
  clear z1 z2 z3 HZ1 HZ2 HZ3 HH1 HH2 HH3 hg1 hg2 hg3 hz1 hz2 hz3
  go_loopw [6, 7, 8, 9, 10] (fun x i _ _ _ wr => ∃ k : Nat, ∃ xl : List Nat, k ≤ 96 ∧ i = .int .i64 ((k : Int) - 1) ∧ xl.length = 3 ∧ Lt32 xl ∧ srch b d k (v32 xl) = F ∧ v32 xl % 2 ^ k = 0 ∧ v32 xl + 2 ^ k ≤ 2 ^ 96 ∧ OwnD wr (w.heap.size + 1) x xl ∧ Pwr w BW wr) (fun _ i _ _ _ _ => (intOf i + 1).toNat)
  case atStart => exact ⟨96, [0, 0, 0], by omega, rfl, rfl, by simp [Lt32, Y32], HS0.out, by simp [v32], by simp [v32], HP.out.2, HP.out.1⟩
  case round =>
    obtain ⟨k, xl, hk, rfl, hl, hlt, hs, hm, hle, ho, hp⟩ := hrel
    have HL := Lib.hid hl
    have HLT := Lib.hid hlt
    have HS := Lib.hid hs
    have HM := Lib.hid hm
    have HLE := Lib.hid hle
    have HO := Lib.hid ho
    have HP := Lib.hid hp
    have hlt0 := hp.lt
    clear hl hlt hs hm hle ho hp HS0
    by_cases hk0 : k = 0
    · subst hk0
      have hF : v32 xl = F := HS.out
      subst hF
      obtain ⟨gx, cx, rfl, hgx1, hgx2, hsx⟩ := HO.out.src
      obtain ⟨_, _, e0, c0⟩ := hsx.word 0 (by rw [HL.out]; omega)
      injection e0 with e0; injection e0 with e1 e2; subst e1; subst e2
      obtain ⟨_, _, e0, c1⟩ := hsx.word 1 (by rw [HL.out]; omega)
      injection e0 with e0; injection e0 with e1 e2; subst e1; subst e2
      have HX0 := Lib.hid (HLT.out.get 0)
      have HX1 := Lib.hid (HLT.out.get 1)
      have HLOW := Lib.hid (low64 xl HLT.out)
      clear hsx HS HM HLE HBV HO HLT
      generalize v32 xl % X64 = v at *
      generalize xl.getD 0 0 = x0 at *
      generalize xl.getD 1 0 = x1 at *
      rw [Nat.zero_add] at c0 c1
      have hi0 : 0 < xl.length := by rw [HL.out]; omega
      have hi1 : 1 < xl.length := by rw [HL.out]; omega
      have hi2 : xl.length ≤ 100 := by rw [HL.out]; omega
      rw [show (((0 : Nat) : Int) - 1) = -1 from rfl]
      have C0 := Lib.hid c0
      have C1 := Lib.hid c1
      clear c0 c1
      go_wp2_with fail
      have c0 := C0.out
      have c1 := C1.out
      go_quiet (fail)
      clear c0 c1 C0 C1
      have HV := Lib.hid (sum64 x0 x1 HX0.out HX1.out)
      rw [HLOW.out] at HV
      go_wp2
      go_ret
      exact ⟨ret_int HV.out, below_drewN' HP.out.bel nq⟩
    · obtain ⟨q, rfl⟩ : ∃ q, k = q + 1 := ⟨k - 1, by omega⟩
      have e1 : (((q + 1 : Nat) : Int) - 1) = (q : Int) := by omega
      rw [e1]
      clear hk0 e1
      have hq : q < 96 := by omega
      obtain ⟨gx, cx, rfl, hgx1, hgx2, hsx⟩ := HO.out.src
      have HSX := Lib.hid hsx
      clear hsx
      have HBIT := Lib.hid (v32_bit xl HL.out HLT.out q HM.out hq)
      have HQQ := Lib.hid (bit96 HM.out HLE.out)
      have HSU : Hid (srch b d (q + 1) (v32 xl) = srch b d q (if (v32 xl + 2 ^ q) ^ d ≤ b then v32 xl + 2 ^ q else v32 xl)) := rfl
      have hqa : q / 32 < 3 := by omega
      have hqr : q % 32 ≤ 31 := by omega
      have HOLD := Lib.hid (HLT.out.get (q / 32))
      have HOLDE : Hid (∀ (cur : Array Value), cur.toList.take xl.length = dcs xl → cur[q / 32]? = some (.int .u32 (xl.getD (q / 32) 0 : Nat))) := fun cur hc => dcs_at hc (by rw [HL.out]; exact hqa)
      have t1 : (q : Int).tdiv 32 = ((q / 32 : Nat) : Int) := by rw [Int.tdiv_eq_ediv_of_nonneg (by omega)]; omega
      have t2 : (q : Int).tmod 32 = ((q % 32 : Nat) : Int) := by rw [Int.tmod_eq_emod_of_nonneg (by omega)]; omega
      have t3 : (q : Int) / 32 = ((q / 32 : Nat) : Int) := by omega
      have t4 : (q : Int) % 32 = ((q % 32 : Nat) : Int) := by omega
      generalize q / 32 = qa at *
      generalize q % 32 = qr at *
      generalize xl.getD qa 0 = old at *
      have hqai : (qa : Int) < 3 := by omega
      have HOR := Lib.hid (or32 old qr HOLD.out hqr)
      have hqri : (qr : Int) ≤ 31 := by omega
      have HB : Hid (∀ b, b = gx → b < wr.heap.size) := fun b hb => by omega
      have HL3 := Lib.hid (show 0 < xl.length from by rw [HL.out]; omega)
      have HL4 := Lib.hid (show xl.length ≤ 1000 from by rw [HL.out]; omega)
      have hql : qa < xl.length := by rw [HL.out]; exact hqa
      have hxl : xl.length ≤ 1000 := HL4.out
      go_wp2_with (first | ((with_reducible show wpList _ _ _ (⟨some 29, .call _, _, _, _, _⟩ :: _) _ _); go_must (refine wpList_dupD rfl _ _ rfl rfl _ _ xl.length cx xl rfl HSX.out HB.out HL3.out HL4.out ?_; intro vy w4 hoy hby; have HBY := Lib.hid hby; clear hby; obtain ⟨gy, cy, cury, rfl, hcy1, hcy2, hgy, hgrow, hcs, hct⟩ := hoy.ex; clear hoy; have hcell := dcs_cell hgrow (HOLDE.out cury hct); have HGR := Lib.hid hgrow; have HCS := Lib.hid hcs; have HCT := Lib.hid hct; have HMX := Lib.hid hcy2; clear hgrow hcs hct hcy2)) | ((with_reducible show wpList _ _ _ (⟨none, .store 39 (.tmp 43) (.tmp 42), _, _, _, _⟩ :: _) _ _); go_must (rw [HOR.out]; refine wpList_store_one rfl 39 (.tmp 43) (.tmp 42) rfl gy qa rfl .u32 _ rfl 39 _ HGR.out size39 (by rw [HCS.out]; omega) ?_; intro w5 hh5 hg5 hz5; have HY5 : Hid (OwnD w5 wr.heap.size (.slice (some ⟨gy, 0, none⟩) xl.length cy) (xl.set qa (old ||| 2 ^ qr))) := OwnD.put HCS.out HMX.out hcy1 hgy hql HCT.out hh5; have HG5 := Lib.hid hg5; have HZ5 := Lib.hid hz5; clear hh5 hg5 hz5 hcell; have HYS := Lib.hid HY5.out.src2)) | ((with_reducible show wpList _ _ _ (⟨some 46, .call _, _, _, _, _⟩ :: _) _ _); go_must (refine wpList_dupD rfl _ _ rfl rfl _ _ xl.length cy (xl.set qa (old ||| 2 ^ qr)) rfl HYS.out.1 (fun b hb => by have := HYS.out.2.2; omega) HL3.out HL4.out ?_; intro vp w6 hop hbp; have HP6 := Lib.hid hop; have HBP := Lib.hid hbp; clear hop hbp)))
      have hgy1 := HYS.out.2.2
      have hz46 : wr.heap.size ≤ w4.heap.size := HBY.out.size
      have hz45 := HZ5.out
      have hz56 : w5.heap.size ≤ w6.heap.size := HBP.out.size
      have HB6 : Hid (Below wr.heap.size wr w6) := (HBY.out.grown HG5.out hz46 (fun r hr => by injection hr; omega)).trans (HBP.out.mono (by omega))
      have HP6' : Hid (Pwr w BW w6) := HP.out.keep HB6.out
      have HX6 := Lib.hid (HO.out.keep HB6.out)
      have HY6 := Lib.hid ((HY5.out.keep HBP.out).weak (B' := w.heap.size + 1) (by omega))
      have HQ6 := Lib.hid (HP6.out.weak (B' := w.heap.size) (by omega))
      have HYL := Lib.hid (show (xl.set qa (old ||| 2 ^ qr)).length = xl.length from List.length_set)
      have HYT := Lib.hid (HLT.out.set qa (old ||| 2 ^ qr) HBIT.out.1)
      have HYV := Lib.hid HBIT.out.2
      clear HBY HG5 HBP HB6 HYS HP HO HY5 HP6 HOR HOLD HCS HMX HCT HGR HB hgy1 hz45 hz46 hz56 HZ5 t1 t2 t3 t4 HBIT HOLDE HSX
      generalize xl.set qa (old ||| 2 ^ qr) = yl at *
      generalize v32 xl + 2 ^ q = M at *
      have hgx : True := trivial
      go_loopw [9, 10] (fun p i wl => ∃ j : Nat, ∃ pl : List Nat, 1 ≤ j ∧ j ≤ d ∧ i = .int .i64 j ∧ OwnD wl w.heap.size p pl ∧ pl.length = 3 * j ∧ Lt32 pl ∧ v32 pl = M ^ j ∧ Below w6.heap.size w6 wl) (fun _ i _ => d - (intOf i).toNat)
      case atStart => exact ⟨1, yl, by omega, by omega, rfl, HQ6.out, by rw [HYL.out, HL.out], HYT.out, by rw [HYV.out, Nat.pow_one], Below.refl _ _⟩
      case round =>
        obtain ⟨j, pl, hj1, hj2, rfl, hop, hpl, hpt, hpv, hbl⟩ := hrel
        have HOP := Lib.hid hop
        have HPL := Lib.hid hpl
        have HPT := Lib.hid hpt
        have HPV := Lib.hid hpv
        have HBL6 := Lib.hid hbl
        clear hop hpl hpt hpv hbl HQ6
        obtain ⟨gp, cp, rfl, hgp1, hgp2, hsp⟩ := HOP.out.src
        have HSP := Lib.hid hsp
        clear hsp
        have HYW := Lib.hid (HY6.out.keep HBL6.out)
        have HYS := Lib.hid HYW.out.src2
        by_cases hlt : j < d
        · have hj3 : pl.length ≤ 9 := by rw [HPL.out]; omega
          have hj4 : 0 < pl.length := by rw [HPL.out]; omega
          have CM := Lib.hid (rmul_any wr (some ⟨gp, 0, none⟩) (some ⟨gy, 0, none⟩) pl.length cp xl.length cy pl yl (HSP.out.weak (fun b hb => by omega)) (HYS.out.1.weak (fun b hb => by have := HYS.out.2.2; omega)) (by omega) HL4.out HPT.out HYT.out hj4 HL3.out)
          go_wp2_with fail
          refine CM.out.mono ?_
          rintro e w7 ⟨v7, o7, rfl, ho7, hf7, hb7⟩
          have H7 := Lib.hid (ho7.weak (B' := w.heap.size) (by omega))
          have HF7 := Lib.hid hf7
          have HB7 := Lib.hid (HBL6.out.trans (hb7.mono HBL6.out.size))
          have HLN : Hid (o7.length = 3 * (j + 1)) := by have := HF7.out.2.1; have := HPL.out; have := HL.out; show o7.length = 3 * (j + 1); omega
          have HVV : Hid (v32 o7 = M ^ (j + 1)) := by show v32 o7 = M ^ (j + 1); rw [HF7.out.2.2, HPV.out, HYV.out, Nat.pow_succ]
          clear ho7 hf7 hb7
          go_wp2
          go_roundw
          case rel =>
            first | exact ⟨j + 1, o7, by omega, by omega, by go_num, H7.out, HLN.out, HF7.out.1, HVV.out, HB7.out⟩ | ((repeat apply Exists.intro); exact ⟨⟨j + 1, o7, by omega, by omega, by go_num, H7.out, HLN.out, HF7.out.1, HVV.out, HB7.out⟩, rfl⟩)
          case measure => simp [intOf]; omega
        · have HJ : Hid (v32 pl = M ^ d) := by have hh : j = d := by omega
                                               rw [← hh]; exact HPV.out
          have hj3 : pl.length ≤ 9 := by rw [HPL.out]; omega
          have hj4 : 0 < pl.length := by rw [HPL.out]; omega
          have HPW := Lib.hid (HP6'.out.keep HBL6.out)
          have HSW : Hid (Src wr (fun b => b = w.heap.size) (some ⟨w.heap.size, 0, none⟩) (2 * d + 2) (dcs BW)) := HPW.out.src HBN.out
          have CM := Lib.hid (rabove_any wr _ _ (some ⟨gp, 0, none⟩) (some ⟨w.heap.size, 0, none⟩) pl.length cp (2 * d + 2) (2 * d + 2) pl BW HSP.out HSW.out (by omega) (by omega) HPT.out HBL.out hj4)
          rw [HJ.out, HBV.out] at CM
          clear HP6'
          go_wp2_with fail
          refine CM.out.mono ?_
          rintro e w7 ⟨rfl, rfl⟩
          by_cases hcmp : M ^ d ≤ b
          · have hdec : decide (b < M ^ d) = false := by simp; omega
            rw [if_pos hcmp] at HSU
            rw [hdec]
            clear hcmp hdec CM HJ HPV
            go_wp2
            go_roundw
            case rel =>
              first | exact ⟨q, yl, by omega, by go_num, by rw [HYL.out]; exact HL.out, HYT.out, by rw [HYV.out, ← HSU.out]; exact HS.out, by rw [HYV.out]; exact HQQ.out.2.1, by rw [HYV.out]; exact HQQ.out.2.2.2, HYW.out, HPW.out⟩ | ((repeat apply Exists.intro); exact ⟨⟨q, yl, by omega, by go_num, by rw [HYL.out]; exact HL.out, HYT.out, by rw [HYV.out, ← HSU.out]; exact HS.out, by rw [HYV.out]; exact HQQ.out.2.1, by rw [HYV.out]; exact HQQ.out.2.2.2, HYW.out, HPW.out⟩, rfl⟩)
            case measure => first | (simp [intOf]; done) | (simp [intOf]; omega)
          · have hdec : decide (b < M ^ d) = true := by simp; omega
            rw [if_neg hcmp] at HSU
            rw [hdec]
            have HLE2 : Hid (v32 xl + 2 ^ q ≤ 2 ^ 96) := by have := HLE.out; rw [Nat.pow_succ] at this; have h0 := Nat.two_pow_pos q; show v32 xl + 2 ^ q ≤ 2 ^ 96; omega
            have HXW := Lib.hid (HX6.out.keep HBL6.out)
            clear hcmp hdec CM HJ HPV
            go_wp2
            go_roundw
            case rel =>
              first | exact ⟨q, xl, by omega, by go_num, HL.out, HLT.out, by rw [← HSU.out]; exact HS.out, HQQ.out.1, HLE2.out, HXW.out, HPW.out⟩ | ((repeat apply Exists.intro); exact ⟨⟨q, xl, by omega, by go_num, HL.out, HLT.out, by rw [← HSU.out]; exact HS.out, HQQ.out.1, HLE2.out, HXW.out, HPW.out⟩, rfl⟩)
            case measure => first | (simp [intOf]; done) | (simp [intOf]; omega)

theorem rroot_any (n : Nat) (hn : n < 4294967296) (w : World) : Calls Try.prog 29 #[.int .u64 n] w (Gives (.int .u64 ((rootN n 2 % X64 : Nat) : Int)) w) := by
  have hF : Hid (∀ w, Calls Try.prog 43 #[.int .u64 (n : Int), .int .i64 2] w (Gives (.int .u64 ((rootN n 2 % X64 : Nat) : Int)) w)) := fun w => rpower_any n 2 hn (by omega) (by omega) w
  generalize rootN n 2 % X64 = v at *
  go_enter Try.func29, Try.ntmps29
  go_wp2_with fail
  refine (hF.out _).mono ?_
  rintro e w' ⟨rfl, hb⟩
  go_wp2
  go_ret
  exact ⟨rfl, hb⟩
theorem rcube_any (n : Nat) (hn : n < 4294967296) (w : World) : Calls Try.prog 28 #[.int .u64 n] w (Gives (.int .u64 ((rootN n 3 % X64 : Nat) : Int)) w) := by
  have hF : Hid (∀ w, Calls Try.prog 43 #[.int .u64 (n : Int), .int .i64 3] w (Gives (.int .u64 ((rootN n 3 % X64 : Nat) : Int)) w)) := fun w => rpower_any n 3 hn (by omega) (by omega) w
  generalize rootN n 3 % X64 = v at *
  go_enter Try.func28, Try.ntmps28
  go_wp2_with fail
  refine (hF.out _).mono ?_
  rintro e w' ⟨rfl, hb⟩
  go_wp2
  go_ret
  exact ⟨rfl, hb⟩
end Go.Proofs.Ytphalfpmgbmcaaa
