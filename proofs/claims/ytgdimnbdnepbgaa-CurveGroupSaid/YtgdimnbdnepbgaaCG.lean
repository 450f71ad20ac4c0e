/- The functions have bodies. No statement is proved here. -/
import Derived.Test.YtgdimnbdnepbgaaGE
namespace Go.Proofs.Ytgdimnbdnepbgaa
open Go.RowKit
set_option linter.unusedVariables false
set_option maxRecDepth 40000

theorem CG10 (args : Array Value) (w : World) : (callFunc 10 args).run Try.prog w = .ok (.enter 10 args) w := callEnter Try.func10 (by kernel_rfl) rfl args w
theorem CG11 (args : Array Value) (w : World) : (callFunc 11 args).run Try.prog w = .ok (.enter 11 args) w := callEnter Try.func11 (by kernel_rfl) rfl args w
theorem CG12 (args : Array Value) (w : World) : (callFunc 12 args).run Try.prog w = .ok (.enter 12 args) w := callEnter Try.func12 (by kernel_rfl) rfl args w
theorem CG13 (args : Array Value) (w : World) : (callFunc 13 args).run Try.prog w = .ok (.enter 13 args) w := callEnter Try.func13 (by kernel_rfl) rfl args w
theorem CG14 (args : Array Value) (w : World) : (callFunc 14 args).run Try.prog w = .ok (.enter 14 args) w := callEnter Try.func14 (by kernel_rfl) rfl args w
theorem CG15 (args : Array Value) (w : World) : (callFunc 15 args).run Try.prog w = .ok (.enter 15 args) w := callEnter Try.func15 (by kernel_rfl) rfl args w
theorem CG16 (args : Array Value) (w : World) : (callFunc 16 args).run Try.prog w = .ok (.enter 16 args) w := callEnter Try.func16 (by kernel_rfl) rfl args w
theorem CG17 (args : Array Value) (w : World) : (callFunc 17 args).run Try.prog w = .ok (.enter 17 args) w := callEnter Try.func17 (by kernel_rfl) rfl args w
theorem CG18 (args : Array Value) (w : World) : (callFunc 18 args).run Try.prog w = .ok (.enter 18 args) w := callEnter Try.func18 (by kernel_rfl) rfl args w
theorem CG19 (args : Array Value) (w : World) : (callFunc 19 args).run Try.prog w = .ok (.enter 19 args) w := callEnter Try.func19 (by kernel_rfl) rfl args w
theorem CG20 (args : Array Value) (w : World) : (callFunc 20 args).run Try.prog w = .ok (.enter 20 args) w := callEnter Try.func20 (by kernel_rfl) rfl args w
theorem CG21 (args : Array Value) (w : World) : (callFunc 21 args).run Try.prog w = .ok (.enter 21 args) w := callEnter Try.func21 (by kernel_rfl) rfl args w
theorem CG22 (args : Array Value) (w : World) : (callFunc 22 args).run Try.prog w = .ok (.enter 22 args) w := callEnter Try.func22 (by kernel_rfl) rfl args w
theorem CG23 (args : Array Value) (w : World) : (callFunc 23 args).run Try.prog w = .ok (.enter 23 args) w := callEnter Try.func23 (by kernel_rfl) rfl args w
theorem CG24 (args : Array Value) (w : World) : (callFunc 24 args).run Try.prog w = .ok (.enter 24 args) w := callEnter Try.func24 (by kernel_rfl) rfl args w
theorem CG25 (args : Array Value) (w : World) : (callFunc 25 args).run Try.prog w = .ok (.enter 25 args) w := callEnter Try.func25 (by kernel_rfl) rfl args w
theorem CG26 (args : Array Value) (w : World) : (callFunc 26 args).run Try.prog w = .ok (.enter 26 args) w := callEnter Try.func26 (by kernel_rfl) rfl args w
theorem CG27 (args : Array Value) (w : World) : (callFunc 27 args).run Try.prog w = .ok (.enter 27 args) w := callEnter Try.func27 (by kernel_rfl) rfl args w
theorem CG28 (args : Array Value) (w : World) : (callFunc 28 args).run Try.prog w = .ok (.enter 28 args) w := callEnter Try.func28 (by kernel_rfl) rfl args w
theorem CG29 (args : Array Value) (w : World) : (callFunc 29 args).run Try.prog w = .ok (.enter 29 args) w := callEnter Try.func29 (by kernel_rfl) rfl args w
theorem CG30 (args : Array Value) (w : World) : (callFunc 30 args).run Try.prog w = .ok (.enter 30 args) w := callEnter Try.func30 (by kernel_rfl) rfl args w
theorem CG31 (args : Array Value) (w : World) : (callFunc 31 args).run Try.prog w = .ok (.enter 31 args) w := callEnter Try.func31 (by kernel_rfl) rfl args w
theorem CG32 (args : Array Value) (w : World) : (callFunc 32 args).run Try.prog w = .ok (.enter 32 args) w := callEnter Try.func32 (by kernel_rfl) rfl args w
theorem CG33 (args : Array Value) (w : World) : (callFunc 33 args).run Try.prog w = .ok (.enter 33 args) w := callEnter Try.func33 (by kernel_rfl) rfl args w
theorem CG34 (args : Array Value) (w : World) : (callFunc 34 args).run Try.prog w = .ok (.enter 34 args) w := callEnter Try.func34 (by kernel_rfl) rfl args w
theorem CG35 (args : Array Value) (w : World) : (callFunc 35 args).run Try.prog w = .ok (.enter 35 args) w := callEnter Try.func35 (by kernel_rfl) rfl args w
theorem CG36 (args : Array Value) (w : World) : (callFunc 36 args).run Try.prog w = .ok (.enter 36 args) w := callEnter Try.func36 (by kernel_rfl) rfl args w
theorem CG37 (args : Array Value) (w : World) : (callFunc 37 args).run Try.prog w = .ok (.enter 37 args) w := callEnter Try.func37 (by kernel_rfl) rfl args w
theorem CG38 (args : Array Value) (w : World) : (callFunc 38 args).run Try.prog w = .ok (.enter 38 args) w := callEnter Try.func38 (by kernel_rfl) rfl args w
theorem CG39 (args : Array Value) (w : World) : (callFunc 39 args).run Try.prog w = .ok (.enter 39 args) w := callEnter Try.func39 (by kernel_rfl) rfl args w
theorem CG40 (args : Array Value) (w : World) : (callFunc 40 args).run Try.prog w = .ok (.enter 40 args) w := callEnter Try.func40 (by kernel_rfl) rfl args w
theorem CG41 (args : Array Value) (w : World) : (callFunc 41 args).run Try.prog w = .ok (.enter 41 args) w := callEnter Try.func41 (by kernel_rfl) rfl args w
theorem CG42 (args : Array Value) (w : World) : (callFunc 42 args).run Try.prog w = .ok (.enter 42 args) w := callEnter Try.func42 (by kernel_rfl) rfl args w
theorem CG43 (args : Array Value) (w : World) : (callFunc 43 args).run Try.prog w = .ok (.enter 43 args) w := callEnter Try.func43 (by kernel_rfl) rfl args w
theorem CG44 (args : Array Value) (w : World) : (callFunc 44 args).run Try.prog w = .ok (.enter 44 args) w := callEnter Try.func44 (by kernel_rfl) rfl args w
theorem CG45 (args : Array Value) (w : World) : (callFunc 45 args).run Try.prog w = .ok (.enter 45 args) w := callEnter Try.func45 (by kernel_rfl) rfl args w
theorem CG46 (args : Array Value) (w : World) : (callFunc 46 args).run Try.prog w = .ok (.enter 46 args) w := callEnter Try.func46 (by kernel_rfl) rfl args w
theorem CG47 (args : Array Value) (w : World) : (callFunc 47 args).run Try.prog w = .ok (.enter 47 args) w := callEnter Try.func47 (by kernel_rfl) rfl args w
theorem CG48 (args : Array Value) (w : World) : (callFunc 48 args).run Try.prog w = .ok (.enter 48 args) w := callEnter Try.func48 (by kernel_rfl) rfl args w
theorem CG49 (args : Array Value) (w : World) : (callFunc 49 args).run Try.prog w = .ok (.enter 49 args) w := callEnter Try.func49 (by kernel_rfl) rfl args w
theorem CG50 (args : Array Value) (w : World) : (callFunc 50 args).run Try.prog w = .ok (.enter 50 args) w := callEnter Try.func50 (by kernel_rfl) rfl args w
theorem CG51 (args : Array Value) (w : World) : (callFunc 51 args).run Try.prog w = .ok (.enter 51 args) w := callEnter Try.func51 (by kernel_rfl) rfl args w
theorem CG52 (args : Array Value) (w : World) : (callFunc 52 args).run Try.prog w = .ok (.enter 52 args) w := callEnter Try.func52 (by kernel_rfl) rfl args w
theorem CG53 (args : Array Value) (w : World) : (callFunc 53 args).run Try.prog w = .ok (.enter 53 args) w := callEnter Try.func53 (by kernel_rfl) rfl args w
theorem CG54 (args : Array Value) (w : World) : (callFunc 54 args).run Try.prog w = .ok (.enter 54 args) w := callEnter Try.func54 (by kernel_rfl) rfl args w
theorem CG55 (args : Array Value) (w : World) : (callFunc 55 args).run Try.prog w = .ok (.enter 55 args) w := callEnter Try.func55 (by kernel_rfl) rfl args w
theorem CG56 (args : Array Value) (w : World) : (callFunc 56 args).run Try.prog w = .ok (.enter 56 args) w := callEnter Try.func56 (by kernel_rfl) rfl args w
theorem CG57 (args : Array Value) (w : World) : (callFunc 57 args).run Try.prog w = .ok (.enter 57 args) w := callEnter Try.func57 (by kernel_rfl) rfl args w
theorem CG58 (args : Array Value) (w : World) : (callFunc 58 args).run Try.prog w = .ok (.enter 58 args) w := callEnter Try.func58 (by kernel_rfl) rfl args w
theorem CG59 (args : Array Value) (w : World) : (callFunc 59 args).run Try.prog w = .ok (.enter 59 args) w := callEnter Try.func59 (by kernel_rfl) rfl args w
theorem CG60 (args : Array Value) (w : World) : (callFunc 60 args).run Try.prog w = .ok (.enter 60 args) w := callEnter Try.func60 (by kernel_rfl) rfl args w
theorem CG61 (args : Array Value) (w : World) : (callFunc 61 args).run Try.prog w = .ok (.enter 61 args) w := callEnter Try.func61 (by kernel_rfl) rfl args w
theorem CG62 (args : Array Value) (w : World) : (callFunc 62 args).run Try.prog w = .ok (.enter 62 args) w := callEnter Try.func62 (by kernel_rfl) rfl args w
theorem CG63 (args : Array Value) (w : World) : (callFunc 63 args).run Try.prog w = .ok (.enter 63 args) w := callEnter Try.func63 (by kernel_rfl) rfl args w
theorem CG64 (args : Array Value) (w : World) : (callFunc 64 args).run Try.prog w = .ok (.enter 64 args) w := callEnter Try.func64 (by kernel_rfl) rfl args w
theorem CG67 (args : Array Value) (w : World) : (callFunc 67 args).run Try.prog w = .ok (.enter 67 args) w := callEnter Try.func67 (by kernel_rfl) rfl args w
theorem CG68 (args : Array Value) (w : World) : (callFunc 68 args).run Try.prog w = .ok (.enter 68 args) w := callEnter Try.func68 (by kernel_rfl) rfl args w
theorem CG71 (args : Array Value) (w : World) : (callFunc 71 args).run Try.prog w = .ok (.enter 71 args) w := callEnter Try.func71 (by kernel_rfl) rfl args w
theorem CG73 (args : Array Value) (w : World) : (callFunc 73 args).run Try.prog w = .ok (.enter 73 args) w := callEnter Try.func73 (by kernel_rfl) rfl args w
theorem CG75 (args : Array Value) (w : World) : (callFunc 75 args).run Try.prog w = .ok (.enter 75 args) w := callEnter Try.func75 (by kernel_rfl) rfl args w
theorem CG77 (args : Array Value) (w : World) : (callFunc 77 args).run Try.prog w = .ok (.enter 77 args) w := callEnter Try.func77 (by kernel_rfl) rfl args w
theorem CG78 (args : Array Value) (w : World) : (callFunc 78 args).run Try.prog w = .ok (.enter 78 args) w := callEnter Try.func78 (by kernel_rfl) rfl args w
theorem CG79 (args : Array Value) (w : World) : (callFunc 79 args).run Try.prog w = .ok (.enter 79 args) w := callEnter Try.func79 (by kernel_rfl) rfl args w
theorem CG80 (args : Array Value) (w : World) : (callFunc 80 args).run Try.prog w = .ok (.enter 80 args) w := callEnter Try.func80 (by kernel_rfl) rfl args w
theorem CG81 (args : Array Value) (w : World) : (callFunc 81 args).run Try.prog w = .ok (.enter 81 args) w := callEnter Try.func81 (by kernel_rfl) rfl args w
theorem CG82 (args : Array Value) (w : World) : (callFunc 82 args).run Try.prog w = .ok (.enter 82 args) w := callEnter Try.func82 (by kernel_rfl) rfl args w
theorem CG83 (args : Array Value) (w : World) : (callFunc 83 args).run Try.prog w = .ok (.enter 83 args) w := callEnter Try.func83 (by kernel_rfl) rfl args w
theorem CG84 (args : Array Value) (w : World) : (callFunc 84 args).run Try.prog w = .ok (.enter 84 args) w := callEnter Try.func84 (by kernel_rfl) rfl args w
theorem CG85 (args : Array Value) (w : World) : (callFunc 85 args).run Try.prog w = .ok (.enter 85 args) w := callEnter Try.func85 (by kernel_rfl) rfl args w
theorem CG86 (args : Array Value) (w : World) : (callFunc 86 args).run Try.prog w = .ok (.enter 86 args) w := callEnter Try.func86 (by kernel_rfl) rfl args w
theorem CG87 (args : Array Value) (w : World) : (callFunc 87 args).run Try.prog w = .ok (.enter 87 args) w := callEnter Try.func87 (by kernel_rfl) rfl args w
theorem CG88 (args : Array Value) (w : World) : (callFunc 88 args).run Try.prog w = .ok (.enter 88 args) w := callEnter Try.func88 (by kernel_rfl) rfl args w
theorem CG89 (args : Array Value) (w : World) : (callFunc 89 args).run Try.prog w = .ok (.enter 89 args) w := callEnter Try.func89 (by kernel_rfl) rfl args w
theorem CG90 (args : Array Value) (w : World) : (callFunc 90 args).run Try.prog w = .ok (.enter 90 args) w := callEnter Try.func90 (by kernel_rfl) rfl args w
theorem CG91 (args : Array Value) (w : World) : (callFunc 91 args).run Try.prog w = .ok (.enter 91 args) w := callEnter Try.func91 (by kernel_rfl) rfl args w
theorem CG100 (args : Array Value) (w : World) : (callFunc 100 args).run Try.prog w = .ok (.enter 100 args) w := callEnter Try.func100 (by kernel_rfl) rfl args w
theorem CG101 (args : Array Value) (w : World) : (callFunc 101 args).run Try.prog w = .ok (.enter 101 args) w := callEnter Try.func101 (by kernel_rfl) rfl args w
theorem CG102 (args : Array Value) (w : World) : (callFunc 102 args).run Try.prog w = .ok (.enter 102 args) w := callEnter Try.func102 (by kernel_rfl) rfl args w
theorem CG103 (args : Array Value) (w : World) : (callFunc 103 args).run Try.prog w = .ok (.enter 103 args) w := callEnter Try.func103 (by kernel_rfl) rfl args w
theorem CG104 (args : Array Value) (w : World) : (callFunc 104 args).run Try.prog w = .ok (.enter 104 args) w := callEnter Try.func104 (by kernel_rfl) rfl args w
/-- A number's bytes lie in row g. -/
def BAt (w : World) (g : Nat) (l : List UInt8) : Prop := l.length = 32 ∧ ∃ t, w.heap[g]? = some (.cells (bcs l).toArray t (0, 0))
theorem BAt.keep {w w' : World} {g : Nat} {l : List UInt8} (h : BAt w g l) (hb : Below w.heap.size w w') : BAt w' g l := by
  obtain ⟨hl, t, ht⟩ := h
  exact ⟨hl, t, (hb.block g (Array.getElem?_eq_some_iff.1 ht).1).trans ht⟩
theorem BAt.grown {w w' : World} {g : Nat} {l : List UInt8} {row : Option Nat} (h : BAt w g l) (hb : w.grownBy w' row) (hg : some g ≠ row) : BAt w' g l := by
  obtain ⟨hl, t, ht⟩ := h
  exact ⟨hl, t, (hb.block g (Array.getElem?_eq_some_iff.1 ht).1 hg).trans ht⟩
theorem BAt.cell {w : World} {g : Nat} {l : List UInt8} (h : BAt w g l) (i : Nat) (hi : i < 32) : w.cell? ⟨g, i, none⟩ = some (.int .u8 ((l.getD i 0).toNat : Nat)) := by
  obtain ⟨hl, t, ht⟩ := h
  refine row_cells ht i _ ?_
  rw [List.toList_toArray, bcs_get, List.getD_eq_getElem?_getD, List.getElem?_eq_getElem (by omega)]
  rfl

theorem bcs_put (l : List UInt8) (j : Nat) (b : UInt8) : (bcs l).toArray.setIfInBounds j (bc b) = (bcs (l.set j b)).toArray := by
  apply Array.toList_inj.1
  rw [Array.toList_setIfInBounds]
  simp [bcs, List.map_set]
end Go.Proofs.Ytgdimnbdnepbgaa
