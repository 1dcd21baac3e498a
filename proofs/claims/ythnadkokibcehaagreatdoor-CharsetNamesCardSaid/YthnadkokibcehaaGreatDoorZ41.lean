/- Several texts in one. -/
import Derived.Test.YthnadkokibcehaaGreatDoorRows
import Derived.Test.YthnadkokibcehaaGreatDoorFlat
import Derived.Test.YthnadkokibcehaaGreatDoorChH
import Derived.Test.YthnadkokibcehaaGreatDoorZ32
import Derived.Test.YthnadkokibcehaaGreatDoorZ26
import Derived.Test.YthnadkokibcehaaGreatDoorZ39
import Derived.Test.YthnadkokibcehaaGreatDoorZ15
import Derived.Test.YthnadkokibcehaaGreatDoorZ18
import Derived.ProofKit
import Derived.Lib.LaidU8
import Derived.Deep.DeepHandedRow
import Derived.Test.YthnadkokibcehaaGreatDoorZ29
namespace Go.Proofs.YthnadkokibcehaaGreatDoor.chl
open Go.RowKit
set_option linter.unusedVariables false
structure Tabs (w : World) : Prop where
  k : ch.K9 w
  n : ch.NM w
def doubleCells : List Value := [.int .i64 34914, .int .i32 202, .int .i32 772, .int .i64 34916, .int .i32 202, .int .i32 780, .int .i64 34979, .int .i32 234, .int .i32 772, .int .i64 34981, .int .i32 234, .int .i32 780]
def kindCells : List Value := [.string jo.K0, .int .i64 (-1), .int .i64 10, .string jo.K1, .int .i64 (-1), .int .i64 5, .string jo.K2, .int .i64 0, .int .i64 0]
def nameCells : List Value := [.string ⟨#[108, 97, 116, 105, 110, 49]⟩, .int .i64 0, .string ⟨#[105, 115, 111, 45, 56, 56, 53, 57, 45, 49]⟩, .int .i64 0, .string ⟨#[108, 97, 116, 105, 110, 45, 49]⟩, .int .i64 0, .string ⟨#[107, 111, 105, 56, 45, 114]⟩, .int .i64 1, .string ⟨#[107, 111, 105, 56, 114]⟩, .int .i64 1, .string ⟨#[107, 111, 105, 56, 45, 117]⟩, .int .i64 2, .string ⟨#[107, 111, 105, 56, 117]⟩, .int .i64 2, .string ⟨#[99, 112, 56, 54, 54]⟩, .int .i64 3, .string ⟨#[105, 98, 109, 56, 54, 54]⟩, .int .i64 3, .string ⟨#[99, 112, 57, 52, 57]⟩, .int .i64 4, .string ⟨#[101, 117, 99, 45, 107, 114]⟩, .int .i64 4, .string ⟨#[117, 104, 99]⟩, .int .i64 4, .string ⟨#[106, 111, 104, 97, 98]⟩, .int .i64 5, .string ⟨#[99, 112, 49, 51, 54, 49]⟩, .int .i64 5, .string ⟨#[98, 105, 103, 53, 45, 104, 107, 115, 99, 115]⟩, .int .i64 6, .string ⟨#[98, 105, 103, 53]⟩, .int .i64 6, .string ⟨#[117, 116, 102, 45, 56]⟩, .int .i64 7, .string ⟨#[117, 116, 102, 56]⟩, .int .i64 7, .string ⟨#[117, 116, 102, 45, 49, 54, 108, 101]⟩, .int .i64 8, .string ⟨#[117, 116, 102, 49, 54, 108, 101]⟩, .int .i64 8, .string ⟨#[117, 116, 102, 45, 49, 54, 98, 101]⟩, .int .i64 9, .string ⟨#[117, 116, 102, 49, 54, 98, 101]⟩, .int .i64 9]
theorem first_eq : (Rows.laid_unicode_utf8_first : DataW Unit) = Lib.firstData := by kernel_rfl
theorem accept_eq : (Rows.laid_unicode_utf8_acceptRanges : DataW Unit) = Lib.acceptData := by kernel_rfl
theorem doubles_flat : flat.flat Tryz.prog 5 143 Rows.laid_diacritic_big5_doubles = some doubleCells := by kernel_rfl
theorem kinds_flat : flat.flat Tryz.prog 4 132 Rows.laid_diacritic_johab_kinds = some kindCells := by kernel_rfl
theorem names_flat : flat.flat Tryz.prog 4 35 Rows.laid_diacritic_charset_names = some nameCells := by kernel_rfl
theorem tabs_of {W : World} (h : laidMetH Tryz.prog [("unicode/utf8.acceptRanges", Rows.laid_unicode_utf8_acceptRanges), ("diacritic/big5.doubles", Rows.laid_diacritic_big5_doubles), ("diacritic/johab.kinds", Rows.laid_diacritic_johab_kinds), ("diacritic/charset.names", Rows.laid_diacritic_charset_names), ("unicode/utf8.first", Rows.laid_unicode_utf8_first)] W) : Tabs W := by
  have h' : laidMet Tryz.prog [("unicode/utf8.acceptRanges", Rows.laid_unicode_utf8_acceptRanges), ("diacritic/big5.doubles", Rows.laid_diacritic_big5_doubles), ("diacritic/johab.kinds", Rows.laid_diacritic_johab_kinds), ("diacritic/charset.names", Rows.laid_diacritic_charset_names), ("unicode/utf8.first", Rows.laid_unicode_utf8_first)] W := h
  have hd := flat.cells_of (g := 2) (t := 143) 5 h' (.tail _ (.head _)) (by kernel_rfl) (by kernel_rfl) doubles_flat
  have hk := flat.cells_of (g := 1) (t := 132) 4 h' (.tail _ (.tail _ (.head _))) (by kernel_rfl) (by kernel_rfl) kinds_flat
  have hn := flat.cells_of (g := 0) (t := 35) 4 h' (.tail _ (.tail _ (.tail _ (.head _)))) (by kernel_rfl) (by kernel_rfl) names_flat
  rw [first_eq, accept_eq] at h'
  refine ⟨⟨utf8Tabs_of_reads Tryz.lays260 ⟨by kernel_rfl, by kernel_rfl, by kernel_rfl, by kernel_rfl, by kernel_rfl, by kernel_rfl, by kernel_rfl⟩ (Lib.laidMet.reads h' (.tail _ (.tail _ (.tail _ (.tail _ (.head _)))))) (Lib.laidMet.reads h' (.head _)), ?_, ?_⟩, ?_⟩
  · exact ⟨hk 0 _ rfl, hk 1 _ rfl, hk 2 _ rfl, hk 3 _ rfl, hk 4 _ rfl, hk 5 _ rfl, hk 6 _ rfl, hk 7 _ rfl, hk 8 _ rfl⟩
  · exact ⟨hd 0 _ rfl, hd 1 _ rfl, hd 2 _ rfl, hd 3 _ rfl, hd 4 _ rfl, hd 5 _ rfl, hd 6 _ rfl, hd 7 _ rfl, hd 8 _ rfl, hd 9 _ rfl, hd 10 _ rfl, hd 11 _ rfl⟩
  · exact ⟨hn 0 _ rfl, hn 1 _ rfl, hn 2 _ rfl, hn 3 _ rfl, hn 4 _ rfl, hn 5 _ rfl, hn 6 _ rfl, hn 7 _ rfl, hn 8 _ rfl, hn 9 _ rfl, hn 10 _ rfl, hn 11 _ rfl, hn 12 _ rfl, hn 13 _ rfl, hn 14 _ rfl, hn 15 _ rfl, hn 16 _ rfl, hn 17 _ rfl, hn 18 _ rfl, hn 19 _ rfl, hn 20 _ rfl, hn 21 _ rfl, hn 22 _ rfl, hn 23 _ rfl, hn 24 _ rfl, hn 25 _ rfl, hn 26 _ rfl, hn 27 _ rfl, hn 28 _ rfl, hn 29 _ rfl, hn 30 _ rfl, hn 31 _ rfl, hn 32 _ rfl, hn 33 _ rfl, hn 34 _ rfl, hn 35 _ rfl, hn 36 _ rfl, hn 37 _ rfl, hn 38 _ rfl, hn 39 _ rfl, hn 40 _ rfl, hn 41 _ rfl, hn 42 _ rfl, hn 43 _ rfl⟩
/-- A world for the witness: the settled one, the tables holding what the texts lay. -/
noncomputable def laidWorld (os : Os) : World :=
  let w0 := World.holding Tryz.prog os ⟨#[], #[], []⟩
  let put (h : Array Obj) (g : Nat) (cs : Array Value) : Array Obj := h.modify g fun
    | .cells _ t frozen => .cells cs t frozen
    | o => o
  { w0 with heap := put (put (put (put (put w0.heap 4 (Lib.firstTab.map fun z => Value.int .u8 z).toArray) 5 ((List.range 16).flatMap fun i => [Value.int .u8 (Lib.accLo i), Value.int .u8 (Lib.accHi i)]).toArray) 2 doubleCells.toArray) 1 kindCells.toArray) 0 nameCells.toArray }
theorem Tabs.below {w w' : World} (h : Tabs w) (hb : Below w.heap.size w w') : Tabs w' := ⟨h.k.below hb, h.n.stay hb⟩
theorem utf8_row : ch.fdC (ch.low ⟨#[85, 84, 70, 56]⟩) = 7 ∧ (ch.fd (ch.low ⟨#[85, 84, 70, 56]⟩)).isSome = true := by decide +kernel
theorem chK : ch.Ch Tabs where
  stay _ _ h hb := h.below hb
  a2 w h := pt.Awake_any w h.k.t
  a5 w h := sg.awake_walk w h.k.t
  a6 w h := jo.Awake_any w h.k.j
  a7 w h := wa.Awake_any wa.aw_land w h.k.t
  a8 w h := bg.Awake_any bp.awk8 w ⟨h.k.t, h.k.d⟩
  dec c s w h _ _ hs := ch.Decode_any c s w h.k hs
  utf w h := by
    have := ch.Named_row ⟨#[85, 84, 70, 56]⟩ w h.n (by decide)
    rwa [utf8_row.1, utf8_row.2] at this
end Go.Proofs.YthnadkokibcehaaGreatDoor.chl
namespace Go.Proofs.YthnadkokibcehaaGreatDoor.chl
open Go.RowKit Go.Lib
set_option linter.unusedVariables false
theorem Right_any (c : Int) (w : World) : Calls Tryz.prog 6 #[.int .i64 c] w fun e w' => e = .returned (.bool (decide (0 ≤ c ∧ c ≤ 9))) ∧ Below w.heap.size w w' := by
  by_cases h0 : 0 ≤ c
  · by_cases h1 : c ≤ 9
    · rw [decide_eq_true ⟨h0, h1⟩]
      go_enter Tryz.func6, Tryz.ntmps6
      go_wp2
      go_ret
      exact ⟨rfl, Below.refl _ _⟩
    · rw [decide_eq_false (fun h => h1 h.2)]
      go_enter Tryz.func6, Tryz.ntmps6
      go_wp2
      go_ret
      exact ⟨rfl, Below.refl _ _⟩
  · rw [decide_eq_false (fun h => h0 h.1)]
    go_enter Tryz.func6, Tryz.ntmps6
    go_wp2
    go_ret
    exact ⟨rfl, Below.refl _ _⟩
theorem Legacy_any (c : Int) (w : World) : Calls Tryz.prog 7 #[.int .i64 c] w fun e w' => e = .returned (.bool (decide (0 ≤ c ∧ c ≤ 6))) ∧ Below w.heap.size w w' := by
  by_cases h0 : 0 ≤ c
  · by_cases h1 : c ≤ 6
    · rw [decide_eq_true ⟨h0, h1⟩]
      go_enter Tryz.func7, Tryz.ntmps7
      go_wp2
      go_ret
      exact ⟨rfl, Below.refl _ _⟩
    · rw [decide_eq_false (fun h => h1 h.2)]
      go_enter Tryz.func7, Tryz.ntmps7
      go_wp2
      go_ret
      exact ⟨rfl, Below.refl _ _⟩
  · rw [decide_eq_false (fun h => h0 h.1)]
    go_enter Tryz.func7, Tryz.ntmps7
    go_wp2
    go_ret
    exact ⟨rfl, Below.refl _ _⟩
/-- The first place from j on that has a charset. -/
def fnc (c : Int) : Nat → Nat → Option Nat
  | 0, _ => none
  | f + 1, j => if ch.nmC j = c then some j else fnc c f (j + 1)
def fnA (c : Int) : Option Nat := fnc c 22 0
def nmOf (c : Int) : ByteArray := match fnA c with | some j => ch.nmS j | none => ⟨#[110, 111, 110, 101]⟩
theorem nmC_le (j : Nat) : ch.nmC j ≤ 9 := by
  by_cases h : j < 22
  · have : ∀ j, j < 22 → ch.nmC j ≤ 9 := by decide
    exact this j h
  · unfold ch.nmC
    rw [List.getD_eq_getElem?_getD, List.getElem?_eq_none (by show 22 ≤ j; omega)]
    decide
theorem fnc_out {c : Int} (h : ¬ ch.inC c) : ∀ f j, fnc c f j = none := by
  intro f
  induction f with
  | zero => intro j; rfl
  | succ f ih =>
    intro j
    unfold fnc
    have h1 := ch.nmC_pos j
    have h2 := nmC_le j
    unfold ch.inC at h
    rw [if_neg (by omega)]
    exact ih _
theorem nmOf_eq (c : Int) : nmOf c = (ch.labs c).getD 0 ⟨#[110, 111, 110, 101]⟩ := by
  by_cases h : ch.inC c
  · unfold ch.inC at h
    have hh : c = 0 ∨ c = 1 ∨ c = 2 ∨ c = 3 ∨ c = 4 ∨ c = 5 ∨ c = 6 ∨ c = 7 ∨ c = 8 ∨ c = 9 := by omega
    rcases hh with rfl | rfl | rfl | rfl | rfl | rfl | rfl | rfl | rfl | rfl
    all_goals decide +kernel
  · rw [ch.labs_out h]
    unfold nmOf fnA
    rw [fnc_out h]
    rfl
set_option maxRecDepth 100000 in
set_option maxHeartbeats 4000000 in
theorem Name_row (c : Int) (w : World) (hN : ch.NM w) : Calls Tryz.prog 8 #[.int .i64 c] w fun e w' => e = .returned (.string (nmOf c)) ∧ Below w.heap.size w w' := by
  have hld := ch.nm_load _ hN
  have hat : ∀ (j : Nat) (wx : World), j < 22 → (Instr.index 35 (.agg ch.nmV) (.int .i64 (j : Int))).run Tryz.prog wx = .ok (.agg #[.string (ch.nmS j), .int .i64 (ch.nmC j)]) wx := fun j wx h => ch.nm_at j h wx
  have HAT := Lib.hid hat
  have HVO : Hid (nmOf c = match fnA c with | some j => ch.nmS j | none => ⟨#[110, 111, 110, 101]⟩) := Lib.hid rfl
  generalize nmOf c = NO at *
  clear hN hat
  go_enter Tryz.func8, Tryz.ntmps8
  go_wp2_with (first | (refine ch.wpList_load_eq rfl 35 _ rfl ⟨0, 0, none⟩ rfl _ hld ?_; clear hld))
  generalize ch.nmV = NV at *
  go_loopw [6] (fun i wr => ∃ j f : Nat, j + f = 22 ∧ i = .int .i64 j ∧ Below w.heap.size w wr ∧ fnc c f j = fnA c) (fun i _ => 22 - (RowKit.intOf i).toNat)
  case atStart => exact ⟨0, 22, rfl, rfl, Below.refl _ _, rfl⟩
  case round =>
    obtain ⟨j, f, hj, rfl, hB, hf⟩ := hrel
    have HB := Lib.hid hB
    have HF := Lib.hid hf
    clear hB hf
    by_cases hlt : j < 22
    · have hix := fun wx => HAT.out j wx hlt
      obtain ⟨f, rfl⟩ : ∃ f', f = f' + 1 := ⟨f - 1, by omega⟩
      have hf := HF.out
      unfold fnc at hf
      obtain ⟨z0, z1⟩ := ch.named_new wr (ch.nmS j) (ch.nmC j) 34
      have BW := Lib.hid (HB.out.alloc HB.out.size (.cells #[.string (ch.nmS j), .int .i64 (ch.nmC j)] 34))
      by_cases he : ch.nmC j = c
      · rw [if_pos he] at hf
        have HV : Hid (NO = ch.nmS j) := Lib.hid (by rw [HVO.out, ← hf])
        rw [he] at hix z0 z1 BW
        clear he hf
        generalize ch.nmS j = S at *
        go_wp2_with fail
        go_ret
        exact ⟨by show Ending.returned (.string S) = _; rw [HV.out], BW.out⟩
      · rw [if_neg he] at hf
        have HF2 := Lib.hid hf
        have hq : (ch.nmC j == c) = false := by rw [beq_eq_false_iff_ne]; exact he
        clear hf
        generalize ch.nmC j = C at *
        generalize ch.nmS j = S at *
        go_wp2_with fail
        go_roundw
        case rel => exact ⟨j + 1, f, by omega, by go_num, BW.out, HF2.out⟩
        case measure => simp [RowKit.intOf]; omega
    · obtain rfl : f = 0 := by omega
      have hf : none = fnA c := HF.out
      have HV : Hid (NO = ⟨#[110, 111, 110, 101]⟩) := Lib.hid (by rw [HVO.out, ← hf])
      clear hf
      go_wp2_with fail
      go_ret
      exact ⟨by show Ending.returned (.string _) = _; rw [HV.out], HB.out⟩
theorem chN : ch.ChN Tabs where
  right c w _ _ _ := Right_any c w
  legacy c w _ _ _ := Legacy_any c w
  name c w h _ _ := by have := Name_row c w h.n; rwa [nmOf_eq] at this
  named s w h hs := by
    have := ch.Named_row s w h.n (by omega)
    rwa [(ch.agree_v s).1, (ch.agree_v s).2] at this
end Go.Proofs.YthnadkokibcehaaGreatDoor.chl
