/- The sums, plainly, on natural numbers: no Go in sight. No statement is proved here. -/
import Derived.Test.YtkglicidjdifkaaBs
import Derived.Test.YtkglicidjdifkaaProg
import Derived.Laws.BitsAllLaws
namespace Go.Proofs.Ytkglicidjdifkaa

theorem lt64 {x : Nat} : x < 18446744073709551616 ↔ x < 2 ^ 64 := by rw [show (2 : Nat) ^ 64 = 18446744073709551616 from rfl]
theorem xor64 {x y : Nat} (hx : x < 18446744073709551616) (hy : y < 18446744073709551616) : x ^^^ y < 18446744073709551616 := lt64.2 (Nat.xor_lt_two_pow (lt64.1 hx) (lt64.1 hy))
theorem or64 {x y : Nat} (hx : x < 18446744073709551616) (hy : y < 18446744073709551616) : x ||| y < 18446744073709551616 := lt64.2 (Nat.or_lt_two_pow (lt64.1 hx) (lt64.1 hy))
theorem and64 {x y : Nat} (hy : y < 18446744073709551616) : x &&& y < 18446744073709551616 := lt64.2 (Nat.and_lt_two_pow x (lt64.1 hy))
theorem mod64 (x : Nat) : x % 18446744073709551616 < 18446744073709551616 := Nat.mod_lt _ (by omega)

/-- Turned to the right by n bits. -/
def rotr (x n : Nat) : Nat := x * 2 ^ (64 - n) % 18446744073709551616 ||| x / 2 ^ n
theorem rotr_lt {x : Nat} (n : Nat) (hx : x < 18446744073709551616) : rotr x n < 18446744073709551616 :=
  or64 (mod64 _) (Nat.lt_of_le_of_lt (Nat.div_le_self x _) hx)
def tri (x i j k : Nat) : Nat := rotr x i ^^^ rotr x j ^^^ rotr x k
theorem tri_lt {x : Nat} (i j k : Nat) (hx : x < 18446744073709551616) : tri x i j k < 18446744073709551616 := xor64 (xor64 (rotr_lt i hx) (rotr_lt j hx)) (rotr_lt k hx)
def ss0 (x : Nat) : Nat := rotr x 1 ^^^ rotr x 8 ^^^ x / 128
def ss1 (x : Nat) : Nat := rotr x 19 ^^^ rotr x 61 ^^^ x / 64
theorem ss0_lt {x : Nat} (hx : x < 18446744073709551616) : ss0 x < 18446744073709551616 := xor64 (xor64 (rotr_lt 1 hx) (rotr_lt 8 hx)) (by omega)
theorem ss1_lt {x : Nat} (hx : x < 18446744073709551616) : ss1 x < 18446744073709551616 := xor64 (xor64 (rotr_lt 19 hx) (rotr_lt 61 hx)) (by omega)
def cho (e f g : Nat) : Nat := e &&& f ^^^ ((18446744073709551615 - e) &&& g)
def maj (a b c : Nat) : Nat := (a &&& b) ^^^ (a &&& c) ^^^ (b &&& c)
theorem cho_lt {e f g : Nat} (hf : f < 18446744073709551616) (hg : g < 18446744073709551616) : cho e f g < 18446744073709551616 := by
  unfold cho
  exact xor64 (and64 hf) (and64 hg)
theorem maj_lt {a b c : Nat} (hb : b < 18446744073709551616) (hc : c < 18446744073709551616) : maj a b c < 18446744073709551616 := xor64 (xor64 (and64 hb) (and64 hc)) (and64 hc)
/-- Bytes as a number, the highest first. -/
def beN (l : List UInt8) : Nat := l.foldl (fun a b => a * 256 + b.toNat) 0
example : cho 1 2 3 = (1 &&& 2) ^^^ ((18446744073709551615 - 1) &&& 3) := rfl

/-- The eight words and what a round makes of them. -/
structure St where
  a : Nat
  b : Nat
  c : Nat
  d : Nat
  e : Nat
  f : Nat
  g : Nat
  h : Nat
def St.t1 (s : St) (k w : Nat) : Nat := (s.h + tri s.e 14 18 41 + cho s.e s.f s.g + k + w) % 18446744073709551616
def St.t2 (s : St) : Nat := (tri s.a 28 34 39 + maj s.a s.b s.c) % 18446744073709551616
def St.step (s : St) (k w : Nat) : St := ⟨(s.t1 k w + s.t2) % 18446744073709551616, s.a, s.b, s.c, (s.d + s.t1 k w) % 18446744073709551616, s.e, s.f, s.g⟩
structure St.Fits (s : St) : Prop where
  a : s.a < 18446744073709551616
  b : s.b < 18446744073709551616
  c : s.c < 18446744073709551616
  d : s.d < 18446744073709551616
  e : s.e < 18446744073709551616
  f : s.f < 18446744073709551616
  g : s.g < 18446744073709551616
  h : s.h < 18446744073709551616
theorem St.Fits.step {s : St} (h : s.Fits) (k w : Nat) : (s.step k w).Fits := ⟨mod64 _, h.a, h.b, h.c, mod64 _, h.e, h.f, h.g⟩
/-- After n rounds. -/
def St.rounds (ks ws : List Nat) : Nat → St → St
  | 0, s => s
  | n + 1, s => (St.rounds ks ws n s).step (ks.getD n 0) (ws.getD n 0)
theorem St.Fits.rounds {s : St} (h : s.Fits) (ks ws : List Nat) : ∀ n, (St.rounds ks ws n s).Fits
  | 0 => h
  | n + 1 => (rounds h ks ws n).step _ _
def St.words (s : St) : List Nat := [s.a, s.b, s.c, s.d, s.e, s.f, s.g, s.h]
def add64 (x y : Nat) : Nat := (x + y) % 18446744073709551616
def St.plus (s t : St) : St := ⟨add64 s.a t.a, add64 s.b t.b, add64 s.c t.c, add64 s.d t.d, add64 s.e t.e, add64 s.f t.f, add64 s.g t.g, add64 s.h t.h⟩
theorem St.plus_fits (s t : St) : (s.plus t).Fits := ⟨mod64 _, mod64 _, mod64 _, mod64 _, mod64 _, mod64 _, mod64 _, mod64 _⟩

/-- The next word of a schedule. -/
def wnext (l : List Nat) : Nat := (l.getD (l.length - 16) 0 + ss0 (l.getD (l.length - 15) 0) + l.getD (l.length - 7) 0 + ss1 (l.getD (l.length - 2) 0)) % 18446744073709551616
def sched0 (blk : List UInt8) (n : Nat) : List Nat := (List.range n).map fun t => beN ((blk.drop (8 * t)).take 8)
def schedN (l0 : List Nat) : Nat → List Nat
  | 0 => l0
  | k + 1 => schedN l0 k ++ [wnext (schedN l0 k)]
def sched (blk : List UInt8) : List Nat := schedN (sched0 blk 16) 64
theorem sched0_len (blk : List UInt8) (n : Nat) : (sched0 blk n).length = n := by simp [sched0]
theorem schedN_len (l0 : List Nat) : ∀ k, (schedN l0 k).length = l0.length + k
  | 0 => rfl
  | k + 1 => by simp [schedN, schedN_len l0 k]; omega
theorem sched_len (blk : List UInt8) : (sched blk).length = 80 := by simp [sched, schedN_len, sched0_len]
theorem beN_snoc (l : List UInt8) (b : UInt8) : beN (l ++ [b]) = beN l * 256 + b.toNat := by simp [beN]
theorem beN_lt : ∀ (n : Nat) (l : List UInt8), l.length = n → beN l < 256 ^ n
  | 0, l, h => by
    obtain rfl := List.eq_nil_of_length_eq_zero h
    simp [beN]
  | n + 1, l, h => by
    have hne : l ≠ [] := by intro e; subst e; cases h
    rw [← List.dropLast_concat_getLast hne, beN_snoc, Nat.pow_succ]
    have := beN_lt n l.dropLast (by simp [h])
    have hb := (l.getLast hne).toNat_lt
    omega
theorem sched0_lt (blk : List UInt8) (n : Nat) : ∀ x ∈ sched0 blk n, x < 18446744073709551616 := by
  intro x hx
  obtain ⟨t, _, rfl⟩ := List.mem_map.1 hx
  have h1 := beN_lt _ ((blk.drop (8 * t)).take 8) rfl
  have h2 : ((blk.drop (8 * t)).take 8).length ≤ 8 := by simp; omega
  have h3 : (256 : Nat) ^ ((blk.drop (8 * t)).take 8).length ≤ 256 ^ 8 := Nat.pow_le_pow_right (by omega) h2
  omega
theorem schedN_lt (l0 : List Nat) (h : ∀ x ∈ l0, x < 18446744073709551616) : ∀ k, ∀ x ∈ schedN l0 k, x < 18446744073709551616
  | 0 => h
  | k + 1 => fun x hx => by
    rcases List.mem_append.1 hx with hx | hx
    · exact schedN_lt l0 h k x hx
    · obtain rfl := List.mem_singleton.1 hx
      exact mod64 _
theorem getD_lt {l : List Nat} (h : ∀ x ∈ l, x < 18446744073709551616) (i : Nat) : l.getD i 0 < 18446744073709551616 := by
  rw [List.getD_eq_getElem?_getD]
  cases hx : l[i]? with
  | none => simp
  | some x => exact h x (List.mem_of_getElem? hx)

def K80 : List Nat := [
  4794697086780616226, 8158064640168781261, 13096744586834688815, 16840607885511220156, 4131703408338449720, 6480981068601479193, 10538285296894168987, 12329834152419229976,
  15566598209576043074, 1334009975649890238, 2608012711638119052, 6128411473006802146, 8268148722764581231, 9286055187155687089, 11230858885718282805, 13951009754708518548,
  16472876342353939154, 17275323862435702243, 1135362057144423861, 2597628984639134821, 3308224258029322869, 5365058923640841347, 6679025012923562964, 8573033837759648693,
  10970295158949994411, 12119686244451234320, 12683024718118986047, 13788192230050041572, 14330467153632333762, 15395433587784984357, 489312712824947311, 1452737877330783856,
  2861767655752347644, 3322285676063803686, 5560940570517711597, 5996557281743188959, 7280758554555802590, 8532644243296465576, 9350256976987008742, 10552545826968843579,
  11727347734174303076, 12113106623233404929, 14000437183269869457, 14369950271660146224, 15101387698204529176, 15463397548674623760, 17586052441742319658, 1182934255886127544,
  1847814050463011016, 2177327727835720531, 2830643537854262169, 3796741975233480872, 4115178125766777443, 5681478168544905931, 6601373596472566643, 7507060721942968483,
  8399075790359081724, 8693463985226723168, 9568029438360202098, 10144078919501101548, 10430055236837252648, 11840083180663258601, 13761210420658862357, 14299343276471374635,
  14566680578165727644, 15097957966210449927, 16922976911328602910, 17689382322260857208, 500013540394364858, 748580250866718886, 1242879168328830382, 1977374033974150939,
  2944078676154940804, 3659926193048069267, 4368137639120453308, 4836135668995329356, 5532061633213252278, 6448918945643986474, 6902733635092675308, 7801388544844847127]
def start512 : St := ⟨7640891576956012808, 13503953896175478587, 4354685564936845355, 11912009170470909681, 5840696475078001361, 11170449401992604703, 2270897969802886507, 6620516959819538809⟩
def start256 : St := ⟨2463787394917988140, 11481187982095705282, 2563595384472711505, 10824532655140301501, 10819967247969091555, 13717434660681038226, 3098927326965381290, 1060366662362279074⟩
/-- After a piece. -/
def piece (s : St) (blk : List UInt8) : St := s.plus (St.rounds K80 (sched blk) 80 s)
theorem piece_fits (s : St) (blk : List UInt8) : (piece s blk).Fits := St.plus_fits _ _
end Go.Proofs.Ytkglicidjdifkaa
