/- charset's table of names, the tables of layers 6 and 8, the library's two, as a row lists them; a world for the witness; what the walks of layer 9 ask, paid. -/
import Derived.Test.YtbgbgigpcegenaaGreatDoorRows
import Derived.Test.YtbgbgigpcegenaaGreatDoorFlat
import Derived.Test.YtbgbgigpcegenaaGreatDoorZ41
import Derived.Test.YtbgbgigpcegenaaGreatDoorZ33
import Derived.Test.YtbgbgigpcegenaaGreatDoorChN
import Derived.Test.YtbgbgigpcegenaaGreatDoorZ27
import Derived.Test.YtbgbgigpcegenaaGreatDoorZ40
import Derived.Test.YtbgbgigpcegenaaGreatDoorZ15
import Derived.Test.YtbgbgigpcegenaaGreatDoorZ19
import Derived.ProofKit
import Derived.Lib.LaidU8
import Derived.Deep.DeepHandedRow
namespace Go.Proofs.YtbgbgigpcegenaaGreatDoor.chl
open Go.RowKit
set_option linter.unusedVariables false
structure Tabs (w : World) : Prop where
  k : ch.K9 w
  n : ch.NM w
def doubleCells : List Value := [.int .i64 34914, .int .i32 202, .int .i32 772, .int .i64 34916, .int .i32 202, .int .i32 780, .int .i64 34979, .int .i32 234, .int .i32 772, .int .i64 34981, .int .i32 234, .int .i32 780]
def kindCells : List Value := [.string jo.K0, .int .i64 (-1), .int .i64 10, .string jo.K1, .int .i64 (-1), .int .i64 5, .string jo.K2, .int .i64 0, .int .i64 0]
def nameCells : List Value := [.string ⟨#[108, 97, 116, 105, 110, 49]⟩, .int .i64 0, .string ⟨#[105, 115, 111, 45, 56, 56, 53, 57, 45, 49]⟩, .int .i64 0, .string ⟨#[108, 97, 116, 105, 110, 45, 49]⟩, .int .i64 0, .string ⟨#[107, 111, 105, 56, 45, 114]⟩, .int .i64 1, .string ⟨#[107, 111, 105, 56, 114]⟩, .int .i64 1, .string ⟨#[107, 111, 105, 56, 45, 117]⟩, .int .i64 2, .string ⟨#[107, 111, 105, 56, 117]⟩, .int .i64 2, .string ⟨#[99, 112, 56, 54, 54]⟩, .int .i64 3, .string ⟨#[105, 98, 109, 56, 54, 54]⟩, .int .i64 3, .string ⟨#[99, 112, 57, 52, 57]⟩, .int .i64 4, .string ⟨#[101, 117, 99, 45, 107, 114]⟩, .int .i64 4, .string ⟨#[117, 104, 99]⟩, .int .i64 4, .string ⟨#[106, 111, 104, 97, 98]⟩, .int .i64 5, .string ⟨#[99, 112, 49, 51, 54, 49]⟩, .int .i64 5, .string ⟨#[98, 105, 103, 53, 45, 104, 107, 115, 99, 115]⟩, .int .i64 6, .string ⟨#[98, 105, 103, 53]⟩, .int .i64 6, .string ⟨#[117, 116, 102, 45, 56]⟩, .int .i64 7, .string ⟨#[117, 116, 102, 56]⟩, .int .i64 7, .string ⟨#[117, 116, 102, 45, 49, 54, 108, 101]⟩, .int .i64 8, .string ⟨#[117, 116, 102, 49, 54, 108, 101]⟩, .int .i64 8, .string ⟨#[117, 116, 102, 45, 49, 54, 98, 101]⟩, .int .i64 9, .string ⟨#[117, 116, 102, 49, 54, 98, 101]⟩, .int .i64 9]
theorem first_eq : (Rows.laid_unicode_utf8_first : DataW Unit) = Lib.firstData := by kernel_rfl
theorem accept_eq : (Rows.laid_unicode_utf8_acceptRanges : DataW Unit) = Lib.acceptData := by kernel_rfl
theorem doubles_flat : flat.flat Tryz.prog 5 176 Rows.laid_diacritic_big5_doubles = some doubleCells := by kernel_rfl
theorem kinds_flat : flat.flat Tryz.prog 4 165 Rows.laid_diacritic_johab_kinds = some kindCells := by kernel_rfl
theorem names_flat : flat.flat Tryz.prog 4 88 Rows.laid_diacritic_charset_names = some nameCells := by kernel_rfl
theorem tabs_of {W : World} (h : laidMetH Tryz.prog [("unicode/utf8.acceptRanges", Rows.laid_unicode_utf8_acceptRanges), ("diacritic/big5.doubles", Rows.laid_diacritic_big5_doubles), ("diacritic/johab.kinds", Rows.laid_diacritic_johab_kinds), ("diacritic/charset.names", Rows.laid_diacritic_charset_names), ("unicode/utf8.first", Rows.laid_unicode_utf8_first)] W) : Tabs W := by
  have h' : laidMet Tryz.prog [("unicode/utf8.acceptRanges", Rows.laid_unicode_utf8_acceptRanges), ("diacritic/big5.doubles", Rows.laid_diacritic_big5_doubles), ("diacritic/johab.kinds", Rows.laid_diacritic_johab_kinds), ("diacritic/charset.names", Rows.laid_diacritic_charset_names), ("unicode/utf8.first", Rows.laid_unicode_utf8_first)] W := h
  have hd := flat.cells_of (g := 2) (t := 176) 5 h' (.tail _ (.head _)) (by kernel_rfl) (by kernel_rfl) doubles_flat
  have hk := flat.cells_of (g := 1) (t := 165) 4 h' (.tail _ (.tail _ (.head _))) (by kernel_rfl) (by kernel_rfl) kinds_flat
  have hn := flat.cells_of (g := 0) (t := 88) 4 h' (.tail _ (.tail _ (.tail _ (.head _)))) (by kernel_rfl) (by kernel_rfl) names_flat
  rw [first_eq, accept_eq] at h'
  refine ⟨⟨utf8Tabs_of_reads Tryz.lays260 ⟨by kernel_rfl, by kernel_rfl, by kernel_rfl, by kernel_rfl, by kernel_rfl, by kernel_rfl, by kernel_rfl⟩ (Lib.laidMet.reads h' (.tail _ (.tail _ (.tail _ (.tail _ (.head _)))))) (Lib.laidMet.reads h' (.head _)), ?_, ?_⟩, ?_⟩
  · exact ⟨hk 0 _ rfl, hk 1 _ rfl, hk 2 _ rfl, hk 3 _ rfl, hk 4 _ rfl, hk 5 _ rfl, hk 6 _ rfl, hk 7 _ rfl, hk 8 _ rfl⟩
  · exact ⟨hd 0 _ rfl, hd 1 _ rfl, hd 2 _ rfl, hd 3 _ rfl, hd 4 _ rfl, hd 5 _ rfl, hd 6 _ rfl, hd 7 _ rfl, hd 8 _ rfl, hd 9 _ rfl, hd 10 _ rfl, hd 11 _ rfl⟩
  · exact ⟨hn 0 _ rfl, hn 1 _ rfl, hn 2 _ rfl, hn 3 _ rfl, hn 4 _ rfl, hn 5 _ rfl, hn 6 _ rfl, hn 7 _ rfl, hn 8 _ rfl, hn 9 _ rfl, hn 10 _ rfl, hn 11 _ rfl, hn 12 _ rfl, hn 13 _ rfl, hn 14 _ rfl, hn 15 _ rfl, hn 16 _ rfl, hn 17 _ rfl, hn 18 _ rfl, hn 19 _ rfl, hn 20 _ rfl, hn 21 _ rfl, hn 22 _ rfl, hn 23 _ rfl, hn 24 _ rfl, hn 25 _ rfl, hn 26 _ rfl, hn 27 _ rfl, hn 28 _ rfl, hn 29 _ rfl, hn 30 _ rfl, hn 31 _ rfl, hn 32 _ rfl, hn 33 _ rfl, hn 34 _ rfl, hn 35 _ rfl, hn 36 _ rfl, hn 37 _ rfl, hn 38 _ rfl, hn 39 _ rfl, hn 40 _ rfl, hn 41 _ rfl, hn 42 _ rfl, hn 43 _ rfl⟩
/-- A world for the witness: the settled one, the tables holding what the texts lay. -/
noncomputable def laidWorld (os : Os) : World :=
  let w0 := World.holding Tryz.prog os ⟨#[], #[], []⟩
  let put (h : Array Obj) (g : Nat) (cs : Array Value) : Array Obj := h.modify g fun
    | .cells _ t frozen => .cells cs t frozen
    | o => o
  { w0 with heap := put (put (put (put (put w0.heap 3 (Lib.firstTab.map fun z => Value.int .u8 z).toArray) 4 ((List.range 16).flatMap fun i => [Value.int .u8 (Lib.accLo i), Value.int .u8 (Lib.accHi i)]).toArray) 2 doubleCells.toArray) 1 kindCells.toArray) 0 nameCells.toArray }
theorem Tabs.below {w w' : World} (h : Tabs w) (hb : Below w.heap.size w w') : Tabs w' := ⟨h.k.below hb, h.n.stay hb⟩
theorem utf8_row : ch.fdC (ch.low ⟨#[85, 84, 70, 56]⟩) = 7 ∧ (ch.fd (ch.low ⟨#[85, 84, 70, 56]⟩)).isSome = true := by decide +kernel
theorem chK : ch.Ch Tabs where
  stay _ _ h hb := h.below hb
  a2 w h := pt.Awake_any w h.k.t
  a5 w h := sg.awake_walk w h.k.t
  a6 w h := jo.Awake_any w h.k.j
  a7 w h := wa.Awake_any wa.aw_land w h.k.t
  a8 w h := bg.Awake_any bp.awk8 w ⟨h.k.t, h.k.d⟩
  dec c s w h _ _ hs := ch.Decode_any c s w h.k hs
  utf w h := by
    have := ch.Named_row ⟨#[85, 84, 70, 56]⟩ w h.n (by decide)
    rwa [utf8_row.1, utf8_row.2] at this
theorem chP : ch.ChP Tabs := { chK with encP := fun c s w h h0 h7 hs hp => ch.Encode_plain c s w h.k.t h0 h7 hs hp }
theorem chT : ch.ChT Tabs := ⟨fun s zs A n c w h hs hn hr _ => ch.Try_any s zs A n c w h.k (by omega) (by omega) hr⟩
end Go.Proofs.YtbgbgigpcegenaaGreatDoor.chl
