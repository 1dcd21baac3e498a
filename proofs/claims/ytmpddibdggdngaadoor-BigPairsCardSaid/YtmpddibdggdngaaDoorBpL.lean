/- big5's table of two signs at once and the library's two tables, as a row lists them; a world for the witness. -/
import Derived.Test.YtmpddibdggdngaaDoorRows
import Derived.Test.YtmpddibdggdngaaDoorFlat
import Derived.Test.YtmpddibdggdngaaDoorBp6
import Derived.ProofKit
import Derived.Lib.LaidU8
import Derived.Deep.DeepHandedRow
namespace Go.Proofs.YtmpddibdggdngaaDoor.bpl
open Go.RowKit
set_option linter.unusedVariables false
def Tabs (w : World) : Prop := bp.Tb8 w
def doubleCells : List Value := [.int .i64 34914, .int .i32 202, .int .i32 772, .int .i64 34916, .int .i32 202, .int .i32 780, .int .i64 34979, .int .i32 234, .int .i32 772, .int .i64 34981, .int .i32 234, .int .i32 780]
theorem first_eq : (Rows.laid_unicode_utf8_first : DataW Unit) = Lib.firstData := by kernel_rfl
theorem accept_eq : (Rows.laid_unicode_utf8_acceptRanges : DataW Unit) = Lib.acceptData := by kernel_rfl
theorem doubles_flat : flat.flat Tryd.prog 5 67 Rows.laid_diacritic_big5_doubles = some doubleCells := by kernel_rfl
theorem tabs_of {W : World} (h : laidMetH Tryd.prog [("unicode/utf8.acceptRanges", Rows.laid_unicode_utf8_acceptRanges), ("diacritic/big5.doubles", Rows.laid_diacritic_big5_doubles), ("unicode/utf8.first", Rows.laid_unicode_utf8_first)] W) : Tabs W := by
  have h' : laidMet Tryd.prog [("unicode/utf8.acceptRanges", Rows.laid_unicode_utf8_acceptRanges), ("diacritic/big5.doubles", Rows.laid_diacritic_big5_doubles), ("unicode/utf8.first", Rows.laid_unicode_utf8_first)] W := h
  have hc := flat.cells_of (g := 0) (t := 67) 5 h' (.tail _ (.head _)) (by kernel_rfl) (by kernel_rfl) doubles_flat
  rw [first_eq, accept_eq] at h'
  refine ⟨utf8Tabs_of_reads Tryd.lays260 ⟨by kernel_rfl, by kernel_rfl, by kernel_rfl, by kernel_rfl, by kernel_rfl, by kernel_rfl, by kernel_rfl⟩ (Lib.laidMet.reads h' (.tail _ (.tail _ (.head _)))) (Lib.laidMet.reads h' (.head _)), ?_⟩
  exact ⟨hc 0 _ rfl, hc 1 _ rfl, hc 2 _ rfl, hc 3 _ rfl, hc 4 _ rfl, hc 5 _ rfl, hc 6 _ rfl, hc 7 _ rfl, hc 8 _ rfl, hc 9 _ rfl, hc 10 _ rfl, hc 11 _ rfl⟩
/-- A world for the witness: the settled one, the tables holding what the texts lay. -/
noncomputable def laidWorld (os : Os) : World :=
  let w0 := World.holding Tryd.prog os ⟨#[], #[], []⟩
  let put (h : Array Obj) (g : Nat) (cs : Array Value) : Array Obj := h.modify g fun
    | .cells _ t frozen => .cells cs t frozen
    | o => o
  { w0 with heap := put (put (put w0.heap 2 (Lib.firstTab.map fun z => Value.int .u8 z).toArray) 3 ((List.range 16).flatMap fun i => [Value.int .u8 (Lib.accLo i), Value.int .u8 (Lib.accHi i)]).toArray) 0 doubleCells.toArray }
end Go.Proofs.YtmpddibdggdngaaDoor.bpl
