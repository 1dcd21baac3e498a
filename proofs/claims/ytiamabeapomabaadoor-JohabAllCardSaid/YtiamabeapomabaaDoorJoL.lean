/- The table of kinds, as a row lists it; a world for the witness; the walks by their arguments. -/
import Derived.Test.YtiamabeapomabaaDoorRows
import Derived.Test.YtiamabeapomabaaDoorFlat
import Derived.Test.YtiamabeapomabaaDoorJoE
import Derived.ProofKit
import Derived.Deep.DeepHandedRow
namespace Go.Proofs.YtiamabeapomabaaDoor.jl
open Go.RowKit
set_option linter.unusedVariables false
def Tabs (w : World) : Prop := jo.KD w
def kindCells : List Value := [.string jo.K0, .int .i64 (-1), .int .i64 10, .string jo.K1, .int .i64 (-1), .int .i64 5, .string jo.K2, .int .i64 0, .int .i64 0]
theorem kinds_flat : flat.flat Tryd.prog 4 54 Rows.laid_diacritic_johab_kinds = some kindCells := by kernel_rfl
theorem tabs_of {W : World} (h : laidMetH Tryd.prog [("diacritic/johab.kinds", Rows.laid_diacritic_johab_kinds)] W) : Tabs W := by
  have h' : laidMet Tryd.prog [("diacritic/johab.kinds", Rows.laid_diacritic_johab_kinds)] W := h
  have hc := flat.cells_of (g := 0) (t := 54) 4 h' (.head _) (by kernel_rfl) (by kernel_rfl) kinds_flat
  exact ⟨hc 0 _ rfl, hc 1 _ rfl, hc 2 _ rfl, hc 3 _ rfl, hc 4 _ rfl, hc 5 _ rfl, hc 6 _ rfl, hc 7 _ rfl, hc 8 _ rfl⟩
/-- A world for the witness: the settled one, the table holding what the text lays. -/
noncomputable def laidWorld (os : Os) : World :=
  let w0 := World.holding Tryd.prog os ⟨#[], #[], []⟩
  let put (h : Array Obj) (g : Nat) (cs : Array Value) : Array Obj := h.modify g fun
    | .cells _ t frozen => .cells cs t frozen
    | o => o
  { w0 with heap := put w0.heap 0 kindCells.toArray }
theorem signs_in (a b : Int) (w : World) (ha : (Lit.int .u8 a).wf = true) (hb : (Lit.int .u8 b).wf = true) (hK : Tabs w) : Calls Tryd.prog 3 #[.int .u8 a, .int .u8 b] w fun e w' => e = .returned (.bool true) ∧ Below w.heap.size w w' := by
  have h0 := bounds_u8 ha
  have h1 := bounds_u8 hb
  obtain ⟨n, rfl⟩ : ∃ n : Nat, a = (n : Int) := ⟨a.toNat, by omega⟩
  obtain ⟨m, rfl⟩ : ∃ m : Nat, b = (m : Int) := ⟨b.toNat, by omega⟩
  exact jo.signs_walk n m w (by omega) (by omega) hK
end Go.Proofs.YtiamabeapomabaaDoor.jl
