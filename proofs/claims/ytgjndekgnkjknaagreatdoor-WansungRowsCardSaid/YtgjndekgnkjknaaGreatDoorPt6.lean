/- The two tables of the library, as a row lists them. -/
import Derived.Test.YtgjndekgnkjknaaGreatDoorRows
import Derived.Test.YtgjndekgnkjknaaGreatDoorPtA
import Derived.ProofKit
import Derived.Lib.LaidU8
import Derived.Deep.DeepHandedRow
namespace Go.Proofs.YtgjndekgnkjknaaGreatDoor.pt
open Go.RowKit
theorem first_eq : (Rows.laid_unicode_utf8_first : DataW Unit) = Lib.firstData := by kernel_rfl
theorem accept_eq : (Rows.laid_unicode_utf8_acceptRanges : DataW Unit) = Lib.acceptData := by kernel_rfl
theorem tabs_of {W : World} (h : laidMetH Tryz.prog [("unicode/utf8.acceptRanges", Rows.laid_unicode_utf8_acceptRanges), ("unicode/utf8.first", Rows.laid_unicode_utf8_first)] W) : Tabs W := by
  have h' : laidMet Tryz.prog [("unicode/utf8.acceptRanges", Rows.laid_unicode_utf8_acceptRanges), ("unicode/utf8.first", Rows.laid_unicode_utf8_first)] W := h
  rw [first_eq, accept_eq] at h'
  exact utf8Tabs_of_reads Tryz.lays260 ⟨by kernel_rfl, by kernel_rfl, by kernel_rfl, by kernel_rfl, by kernel_rfl, by kernel_rfl, by kernel_rfl⟩ (Lib.laidMet.reads h' (.tail _ (.head _))) (Lib.laidMet.reads h' (.head _))
/-- A world for the witness: the settled one, the two tables holding what the library lays. -/
noncomputable def laidWorld (os : Os) : World :=
  let w0 := World.holding Tryz.prog os ⟨#[], #[], []⟩
  let put (h : Array Obj) (g : Nat) (cs : Array Value) : Array Obj := h.modify g fun
    | .cells _ t frozen => .cells cs t frozen
    | o => o
  { w0 with heap := put (put w0.heap 0 (Lib.firstTab.map fun z => Value.int .u8 z).toArray) 1 ((List.range 16).flatMap fun i => [Value.int .u8 (Lib.accLo i), Value.int .u8 (Lib.accHi i)]).toArray }
end Go.Proofs.YtgjndekgnkjknaaGreatDoor.pt
