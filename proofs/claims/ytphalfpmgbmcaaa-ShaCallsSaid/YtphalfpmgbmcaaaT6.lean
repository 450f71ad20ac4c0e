/- The sums of some bytes, and some roots, computed. No statement is proved here. -/
import Derived.Test.YtphalfpmgbmcaaaT5
namespace Go.Proofs.Ytphalfpmgbmcaaa
set_option linter.unusedVariables false

/-- f of x, where x is to be known first. -/
def strict {α : Type} (x : Nat) (f : Nat → α) : α := Nat.rec (motive := fun _ => α) (f 0) (fun n _ => f (n + 1)) x
theorem strict_eq {α : Type} (x : Nat) (f : Nat → α) : strict x f = f x := by cases x <;> rfl
/-- A schedule, the newest word first. -/
def fs : Nat → List Nat → List Nat
  | 0, l => l
  | k + 1, l => strict ((l.getD 15 0 + ss0 (l.getD 14 0) + l.getD 6 0 + ss1 (l.getD 1 0)) % 18446744073709551616) fun x => fs k (x :: l)
theorem schedN_first (l : List Nat) : ∀ k, schedN l (k + 1) = schedN (l ++ [wnext l]) k
  | 0 => rfl
  | k + 1 => by
    show schedN l (k + 1) ++ [wnext (schedN l (k + 1))] = schedN (l ++ [wnext l]) k ++ [wnext (schedN (l ++ [wnext l]) k)]
    rw [schedN_first l k]
theorem rev_getD (l : List Nat) (i : Nat) (h : i < l.length) : l.reverse.getD (l.length - 1 - i) 0 = l.getD i 0 := by
  rw [List.getD_eq_getElem?_getD, List.getD_eq_getElem?_getD, List.getElem?_reverse (by omega), show l.length - 1 - (l.length - 1 - i) = i from by omega]
theorem fs_eq : ∀ (k : Nat) (l : List Nat), 16 ≤ l.length → (fs k l).reverse = schedN l.reverse k
  | 0, l, _ => rfl
  | k + 1, l, h => by
    have e : wnext l.reverse = (l.getD 15 0 + ss0 (l.getD 14 0) + l.getD 6 0 + ss1 (l.getD 1 0)) % 18446744073709551616 := by
      unfold wnext
      rw [List.length_reverse, show l.length - 16 = l.length - 1 - 15 from by omega, show l.length - 15 = l.length - 1 - 14 from by omega, show l.length - 7 = l.length - 1 - 6 from by omega, show l.length - 2 = l.length - 1 - 1 from by omega, rev_getD l 15 (by omega), rev_getD l 14 (by omega), rev_getD l 6 (by omega), rev_getD l 1 (by omega)]
    unfold fs
    rw [strict_eq, fs_eq k _ (by simp; omega), schedN_first, e, List.reverse_cons]
/-- Rounds, one by one. -/
def fr8 : List Nat → List Nat → Nat → Nat → Nat → Nat → Nat → Nat → Nat → Nat → St
  | k :: ks, w :: ws, a, b, c, d, e, f, g, h =>
    strict ((h + tri e 14 18 41 + cho e f g + k + w) % 18446744073709551616) fun t1 =>
    strict ((t1 + (tri a 28 34 39 + maj a b c) % 18446744073709551616) % 18446744073709551616) fun na =>
    strict ((d + t1) % 18446744073709551616) fun ne => fr8 ks ws na a b c ne e f g
  | _, _, a, b, c, d, e, f, g, h => ⟨a, b, c, d, e, f, g, h⟩
theorem rounds_succ (ks ws : List Nat) (n : Nat) (s : St) : St.rounds ks ws (n + 1) s = (St.rounds ks ws n s).step (ks.getD n 0) (ws.getD n 0) := by rw [St.rounds]
theorem rounds_zero (ks ws : List Nat) (s : St) : St.rounds ks ws 0 s = s := by rw [St.rounds]
theorem rounds_first (k w : Nat) (ks ws : List Nat) (s : St) : ∀ n, St.rounds (k :: ks) (w :: ws) (n + 1) s = St.rounds ks ws n (s.step k w)
  | 0 => by rw [rounds_succ, rounds_zero, rounds_zero, List.getD_cons_zero, List.getD_cons_zero]
  | n + 1 => by rw [rounds_succ, rounds_first k w ks ws s n, List.getD_cons_succ, List.getD_cons_succ, ← rounds_succ]
theorem fr8_eq : ∀ (ks ws : List Nat) (s : St), ws.length = ks.length → fr8 ks ws s.a s.b s.c s.d s.e s.f s.g s.h = St.rounds ks ws ks.length s
  | [], [], s, _ => rfl
  | k :: ks, w :: ws, s, h => by
    unfold fr8
    rw [strict_eq, strict_eq, strict_eq, List.length_cons, rounds_first, ← fr8_eq ks ws (s.step k w) (by simpa using h)]
    rfl
/-- A piece, computed. -/
def fpiece (s : St) (w16 : List Nat) : St := s.plus (fr8 K80 (fs 64 w16.reverse).reverse s.a s.b s.c s.d s.e s.f s.g s.h)
theorem fpiece_eq (s : St) (blk : List UInt8) : piece s blk = fpiece s (sched0 blk 16) := by
  unfold piece fpiece
  have e : (fs 64 (sched0 blk 16).reverse).reverse = sched blk := by rw [fs_eq 64 _ (by rw [List.length_reverse, sched0_len]; omega), List.reverse_reverse]; rfl
  rw [e, fr8_eq K80 (sched blk) s (by rw [sched_len]; rfl)]
  rfl
theorem sumS_one (s : St) (l : List UInt8) (h : (padded l).length = 128) : sumS s l = fpiece s (sched0 (padded l) 16) := by
  unfold sumS whole
  rw [h, ← fpiece_eq]
  show piece s (((padded l).drop 0).take 128) = _
  rw [List.drop_zero, List.take_of_length_le (by omega)]
theorem abc512_pad : (padded ([97, 98, 99] : List UInt8)).length = 128 := by decide +kernel
theorem abc512_w16 : sched0 (padded ([97, 98, 99] : List UInt8)) 16 = [7017280570803617792, 0, 0, 0, 0, 0, 0, 0, 0, 0, 0, 0, 0, 0, 0, 24] := by decide +kernel
theorem abc512_go : (fpiece start512 [7017280570803617792, 0, 0, 0, 0, 0, 0, 0, 0, 0, 0, 0, 0, 0, 0, 24]).words = [15974045371385084602, 14718171817514647857, 1362051152550133410, 765311659573367706, 2419164356178592168, 3943530547489205181, 4993722480620005390, 3069987439919277215] := by decide +kernel
theorem abc512 : (sumS start512 [97, 98, 99]).words = [15974045371385084602, 14718171817514647857, 1362051152550133410, 765311659573367706, 2419164356178592168, 3943530547489205181, 4993722480620005390, 3069987439919277215] := by rw [sumS_one _ _ abc512_pad, abc512_w16, abc512_go]
theorem abc256_pad : (padded ([97, 98, 99] : List UInt8)).length = 128 := by decide +kernel
theorem abc256_w16 : sched0 (padded ([97, 98, 99] : List UInt8)) 16 = [7017280570803617792, 0, 0, 0, 0, 0, 0, 0, 0, 0, 0, 0, 0, 0, 0, 24] := by decide +kernel
theorem abc256_go : (fpiece start256 [7017280570803617792, 0, 0, 0, 0, 0, 0, 0, 0, 0, 0, 0, 0, 0, 0, 24]).words = [5982062501088730873, 11181920792563449259, 16483967135840496966, 16204779602120781603, 1023887885983085447, 2308010460636954733, 9408384711797966747, 11773933460152845848] := by decide +kernel
theorem abc256 : (sumS start256 [97, 98, 99]).words = [5982062501088730873, 11181920792563449259, 16483967135840496966, 16204779602120781603, 1023887885983085447, 2308010460636954733, 9408384711797966747, 11773933460152845848] := by rw [sumS_one _ _ abc256_pad, abc256_w16, abc256_go]
theorem nil512_pad : (padded ([] : List UInt8)).length = 128 := by decide +kernel
theorem nil512_w16 : sched0 (padded ([] : List UInt8)) 16 = [9223372036854775808, 0, 0, 0, 0, 0, 0, 0, 0, 0, 0, 0, 0, 0, 0, 0] := by decide +kernel
theorem nil512_go : (fpiece start512 [9223372036854775808, 0, 0, 0, 0, 0, 0, 0, 0, 0, 0, 0, 0, 0, 0, 0]).words = [14953042807679334589, 17389568388844322823, 15429583033687545308, 9508410676032104910, 5174866029046002352, 18411586994116160559, 7185829369460390529, 11905321118701443646] := by decide +kernel
theorem nil512 : (sumS start512 []).words = [14953042807679334589, 17389568388844322823, 15429583033687545308, 9508410676032104910, 5174866029046002352, 18411586994116160559, 7185829369460390529, 11905321118701443646] := by rw [sumS_one _ _ nil512_pad, nil512_w16, nil512_go]
theorem root_2_2 : rootN 2 2 % X64 = 7640891576956012808 := by
  rw [rootN_eq 2 2 26087635650665564424 (by omega) (by omega) (by omega) (by decide +kernel) (by decide +kernel)]
  rfl
theorem root_2_3 : rootN 2 3 % X64 = 4794697086780616226 := by
  rw [rootN_eq 2 3 23241441160490167842 (by omega) (by omega) (by omega) (by decide +kernel) (by decide +kernel)]
  rfl
theorem root_4_2 : rootN 4 2 % X64 = 0 := by
  rw [rootN_eq 4 2 36893488147419103232 (by omega) (by omega) (by omega) (by decide +kernel) (by decide +kernel)]
  rfl
theorem root_27_3 : rootN 27 3 % X64 = 0 := by
  rw [rootN_eq 27 3 55340232221128654848 (by omega) (by omega) (by omega) (by decide +kernel) (by decide +kernel)]
  rfl
end Go.Proofs.Ytphalfpmgbmcaaa
