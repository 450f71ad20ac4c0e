/-
  DERIVED: THE SHELF's CONTRACTS AT THIS DUMP, IN PLAIN WORDS (tools/lay-plain.mjs out of 'YtfhjcfoecmbhkaaSK.lean', which tools/lay-shelf.mjs wrote): THE SAME DECLARATIONS UNDER THE SAME NAMES: 'import', 'namespace', 'open', 'def', 'theorem' AND NOTHING ELSE: no command of the shelf's: FOR A HAND-IN. Each laying: the table of numbers ('.._ren') and one theorem, a field a fact of the dump's own or the kernel's comparison; each contract: ONE APPLICATION.
-/
import Derived.Shelf.SlGeneric
import Derived.Shelf.SlIterI.Nil
import Derived.Shelf.SortM.Plain
import Derived.Shelf.SortM.SortNone
import Derived.Ground.GgzProg
import Derived.Ground.SlgmProg
import Derived.Test.YtfhjcfoecmbhkaaProg
namespace Go.Proofs
open Go.Shelf
def Try.keysA_ren : Go.Shelf.Ren := ⟨fun | 7 => 37 | 10 => 49 | n => n, fun | 23 => 65 | 26 => 3 | 3 => 63 | 28 => 71 | 0 => 0 | 27 => 70 | 33 => 75 | 4 => 4 | n => n, fun | n => n⟩
theorem Try.keysA : Go.Proofs.SlLaysZI.n7 Try.prog Try.keysA_ren := {
  mixed := by kernel_rfl
  f7 := ⟨Try.f37.name, by decide, Try.func37.trans (congrArg some (by kernel_rfl))⟩
  f10 := ⟨Try.f49.name, by decide, Try.func49.trans (congrArg some (by kernel_rfl))⟩
  t0 := Try.underlying0
  a0 := Try.isAgg0
  z0 := Try.sizeOf0
  v0 := Try.zeroValue0
  t4 := Try.underlying4
  a4 := Try.isAgg4
  z4 := Try.sizeOf4
  v4 := Try.zeroValue4
  t23 := Try.underlying65
  a23 := Try.isAgg65
  z23 := Try.sizeOf65
  v23 := Try.zeroValue65
  t26 := Try.underlying3
  a26 := Try.isAgg3
  z26 := Try.sizeOf3
  v26 := Try.zeroValue3
  t27 := Try.underlying70
  a27 := Try.isAgg70
  z27 := Try.sizeOf70
  v27 := Try.zeroValue70
  t28 := Try.underlying71
  a28 := Try.isAgg71
  z28 := Try.sizeOf71
  v28 := Try.zeroValue71
  t33 := Try.underlying75
  a33 := Try.isAgg75
  z33 := Try.sizeOf75
  v33 := Try.zeroValue75 }
def Try.sortedA_ren : Go.Shelf.Ren := ⟨fun | 6 => 36 | 8 => 47 | 9 => 48 | 11 => 52 | 13 => 54 | 12 => 53 | 23 => 64 | 24 => 65 | 14 => 55 | 15 => 56 | 16 => 57 | 17 => 58 | 18 => 59 | 19 => 60 | 20 => 61 | 21 => 62 | 22 => 63 | 25 => 66 | 26 => 67 | 27 => 68 | 28 => 69 | 29 => 70 | 30 => 71 | 31 => 72 | n => n, fun | 26 => 3 | 28 => 71 | 24 => 32 | 0 => 0 | 3 => 3 | 37 => 87 | 48 => 98 | 50 => 100 | 4 => 4 | 40 => 90 | 39 => 89 | 45 => 95 | 5 => 5 | 9 => 9 | 51 => 101 | 55 => 105 | 57 => 107 | 58 => 108 | 33 => 75 | n => n, fun | n => n⟩
theorem Try.sortedA : Go.Proofs.SlLaysZI.n6 Try.prog Try.sortedA_ren := {
  mixed := by kernel_rfl
  f6 := ⟨Try.f36.name, by decide, Try.func36.trans (congrArg some (by kernel_rfl))⟩
  f8 := ⟨Try.f47.name, by decide, Try.func47.trans (congrArg some (by kernel_rfl))⟩
  f11 := ⟨Try.f52.name, by decide, Try.func52.trans (congrArg some (by kernel_rfl))⟩
  t0 := Try.underlying0
  a0 := Try.isAgg0
  z0 := Try.sizeOf0
  v0 := Try.zeroValue0
  t24 := Try.underlying32
  a24 := Try.isAgg32
  z24 := Try.sizeOf32
  v24 := Try.zeroValue32
  t26 := Try.underlying3
  a26 := Try.isAgg3
  z26 := Try.sizeOf3
  v26 := Try.zeroValue3
  t28 := Try.underlying71
  a28 := Try.isAgg71
  z28 := Try.sizeOf71
  v28 := Try.zeroValue71
  i26 := by kernel_rfl }
def Try.sortA_ren : Go.Shelf.Ren := ⟨fun | 5 => 48 | 8 => 54 | 7 => 53 | 19 => 64 | 20 => 65 | 10 => 55 | 11 => 56 | 12 => 57 | 13 => 58 | 14 => 59 | 15 => 60 | 16 => 61 | 17 => 62 | 18 => 63 | 30 => 66 | 31 => 67 | 32 => 68 | 33 => 69 | 34 => 70 | 35 => 71 | 40 => 72 | n => n, fun | 23 => 32 | 25 => 3 | 3 => 3 | 32 => 87 | 22 => 32 | 0 => 0 | 44 => 98 | 46 => 100 | 4 => 4 | 36 => 90 | 35 => 89 | 41 => 95 | 5 => 5 | 9 => 9 | 53 => 101 | 57 => 105 | 63 => 107 | 64 => 108 | n => n, fun | n => n⟩
theorem Try.sortA : Go.Proofs.SlLaysM.n5 Try.prog Try.sortA_ren := {
  mixed := by kernel_rfl
  f5 := ⟨Try.f48.name, by decide, Try.func48.trans (congrArg some (by kernel_rfl))⟩
  f7 := ⟨Try.f53.name, by decide, Try.func53.trans (congrArg some (by kernel_rfl))⟩
  f8 := Try.func54.trans (congrArg some (by kernel_rfl))
  f10 := ⟨Try.f55.name, by decide, Try.func55.trans (congrArg some (by kernel_rfl))⟩
  f11 := ⟨Try.f56.name, by decide, Try.func56.trans (congrArg some (by kernel_rfl))⟩
  f12 := ⟨Try.f57.name, by decide, Try.func57.trans (congrArg some (by kernel_rfl))⟩
  f13 := ⟨Try.f58.name, by decide, Try.func58.trans (congrArg some (by kernel_rfl))⟩
  f14 := ⟨Try.f59.name, by decide, Try.func59.trans (congrArg some (by kernel_rfl))⟩
  f15 := ⟨Try.f60.name, by decide, Try.func60.trans (congrArg some (by kernel_rfl))⟩
  f16 := ⟨Try.f61.name, by decide, Try.func61.trans (congrArg some (by kernel_rfl))⟩
  f17 := ⟨Try.f62.name, by decide, Try.func62.trans (congrArg some (by kernel_rfl))⟩
  f18 := ⟨Try.f63.name, by decide, Try.func63.trans (congrArg some (by kernel_rfl))⟩
  f19 := Try.func64.trans (congrArg some (by kernel_rfl))
  f20 := Try.func65.trans (congrArg some (by kernel_rfl))
  f30 := ⟨Try.f66.name, by decide, Try.func66.trans (congrArg some (by kernel_rfl))⟩
  f31 := Try.func67.trans (congrArg some (by kernel_rfl))
  f32 := Try.func68.trans (congrArg some (by kernel_rfl))
  f33 := ⟨Try.f69.name, by decide, Try.func69.trans (congrArg some (by kernel_rfl))⟩
  f34 := ⟨Try.f70.name, by decide, Try.func70.trans (congrArg some (by kernel_rfl))⟩
  f35 := ⟨Try.f71.name, by decide, Try.func71.trans (congrArg some (by kernel_rfl))⟩
  f40 := ⟨Try.f72.name, by decide, Try.func72.trans (congrArg some (by kernel_rfl))⟩
  t0 := Try.underlying0
  a0 := Try.isAgg0
  z0 := Try.sizeOf0
  v0 := Try.zeroValue0
  t3 := Try.underlying3
  a3 := Try.isAgg3
  z3 := Try.sizeOf3
  v3 := Try.zeroValue3
  t4 := Try.underlying4
  a4 := Try.isAgg4
  z4 := Try.sizeOf4
  v4 := Try.zeroValue4
  t5 := Try.underlying5
  a5 := Try.isAgg5
  z5 := Try.sizeOf5
  v5 := Try.zeroValue5
  t9 := Try.underlying9
  a9 := Try.isAgg9
  z9 := Try.sizeOf9
  v9 := Try.zeroValue9
  t22 := Try.underlying32
  a22 := Try.isAgg32
  z22 := Try.sizeOf32
  v22 := Try.zeroValue32
  t23 := Try.underlying32
  a23 := Try.isAgg32
  z23 := Try.sizeOf32
  v23 := Try.zeroValue32
  t25 := Try.underlying3
  a25 := Try.isAgg3
  z25 := Try.sizeOf3
  v25 := Try.zeroValue3
  t32 := Try.underlying87
  a32 := Try.isAgg87
  z32 := Try.sizeOf87
  v32 := Try.zeroValue87
  t35 := Try.underlying89
  a35 := Try.isAgg89
  z35 := Try.sizeOf89
  v35 := Try.zeroValue89
  t36 := Try.underlying90
  a36 := Try.isAgg90
  z36 := Try.sizeOf90
  v36 := Try.zeroValue90
  t41 := Try.underlying95
  a41 := Try.isAgg95
  z41 := Try.sizeOf95
  v41 := Try.zeroValue95
  t44 := Try.underlying98
  a44 := Try.isAgg98
  z44 := Try.sizeOf98
  v44 := Try.zeroValue98
  t46 := Try.underlying100
  a46 := Try.isAgg100
  z46 := Try.sizeOf100
  v46 := Try.zeroValue100
  t53 := Try.underlying101
  a53 := Try.isAgg101
  z53 := Try.sizeOf101
  v53 := Try.zeroValue101
  t57 := Try.underlying105
  a57 := Try.isAgg105
  z57 := Try.sizeOf105
  v57 := Try.zeroValue105
  t63 := Try.underlying107
  a63 := Try.isAgg107
  z63 := Try.sizeOf107
  v63 := Try.zeroValue107
  t64 := Try.underlying108
  a64 := Try.isAgg108
  z64 := Try.sizeOf108
  v64 := Try.zeroValue108 }
end Go.Proofs
