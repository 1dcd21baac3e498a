/-
  DERIVED. GIVEN WITH THE SEED: THE CARDS: each row of YtkhcmgnempjjcaaDoorRows.lean that lists a variable, with what it lists TIED to the program's text (the seventh form; the later family's looks); each row that meets fmt, with fmt's text TOLD by the authors' own Lean function (tested against real Go, not proved from fmt's source: count such statements apart). THE CARD IS WHAT COUNTS. Prove the row's statement (the work); the ties are given (YtkhcmgnempjjcaaDoorTie.lean); close each card by the builder's one call (the guide's Derived/Test/ToyasCard.lean, 'card_holds'). Laid BY PROGRAM, IN A SANDBOX (cutbox-door.mjs). By AI agents, Wed Nov 11 2026. No macro, syntax, notation, axiom, sorry.
-/
import Derived.Test.YtkhcmgnempjjcaaDoorRows
import GoSem.ClaimSeven
namespace Go.Proofs.YtkhcmgnempjjcaaDoor
namespace Rows

/-- THE TIED CARD OF 'diacriticlaw02.PointSigns'. -/
def pointSignsCard : Claim7 := { stood := { row := pointSignsRow, standIns := [], harness := (true, "3139314fa28ab9696ba46b7cbab625cffa8cc6d5f77b40a6c5a20fad41114520"), looks := false }, kinds := [], alts := [], laidByText := true, laidKinds := [.data, .pinned], laidTests := true, laidLooks := .later }
def PointSignsCardSaid : Prop := Claim7.holds Tryd.pinned (.plain (OpenSpec.ofChange pointSignsSpec)) pointSignsCard

/-- THE TIED CARD OF 'diacriticlaw02.PointTexts'. -/
def pointTextsCard : Claim7 := { stood := { row := pointTextsRow, standIns := [], harness := (true, "3139314fa28ab9696ba46b7cbab625cffa8cc6d5f77b40a6c5a20fad41114520"), looks := false }, kinds := [], alts := [], laidByText := true, laidKinds := [.data, .pinned], laidTests := true, laidLooks := .later }
def PointTextsCardSaid : Prop := Claim7.holds Tryd.pinned (.plain (OpenSpec.ofChange pointTextsSpec)) pointTextsCard

/-- THE TIED CARD OF 'diacriticlaw02.PointReads'. -/
def pointReadsCard : Claim7 := { stood := { row := pointReadsRow, standIns := [], harness := (true, "3139314fa28ab9696ba46b7cbab625cffa8cc6d5f77b40a6c5a20fad41114520"), looks := false }, kinds := [], alts := [], laidByText := true, laidKinds := [.data, .pinned], laidTests := true, laidLooks := .later }
def PointReadsCardSaid : Prop := Claim7.holds Tryd.pinned (.plain (OpenSpec.ofChange pointReadsSpec)) pointReadsCard

/-- THE TIED CARD OF 'diacriticlaw02.PointPlain'. -/
def pointPlainCard : Claim7 := { stood := { row := pointPlainRow, standIns := [], harness := (true, "3139314fa28ab9696ba46b7cbab625cffa8cc6d5f77b40a6c5a20fad41114520"), looks := false }, kinds := [], alts := [], laidByText := true, laidKinds := [.data, .pinned], laidTests := true, laidLooks := .later }
def PointPlainCardSaid : Prop := Claim7.holds Tryd.pinned (.plain (OpenSpec.ofChange pointPlainSpec)) pointPlainCard

/-- THE TIED CARD OF 'diacriticlaw02.PointCuts'. -/
def pointCutsCard : Claim7 := { stood := { row := pointCutsRow, standIns := [], harness := (true, "3139314fa28ab9696ba46b7cbab625cffa8cc6d5f77b40a6c5a20fad41114520"), looks := false }, kinds := [], alts := [], laidByText := true, laidKinds := [.data, .pinned], laidTests := true, laidLooks := .later }
def PointCutsCardSaid : Prop := Claim7.holds Tryd.pinned (.plain (OpenSpec.ofChange pointCutsSpec)) pointCutsCard

/-- THE SECOND FORM's CARD OF 'diacriticlaw02.PointSigns'. -/
def pointSignsUptoCard : Claim7 := { stood := { row := pointSignsUptoRow, standIns := [], harness := (true, "3139314fa28ab9696ba46b7cbab625cffa8cc6d5f77b40a6c5a20fad41114520"), looks := false }, kinds := [], alts := [], laidByText := true, laidKinds := [.data, .pinned], laidTests := true, laidLooks := .later }
def PointSignsUptoCardSaid : Prop := Claim7.holds Tryd.pinned (.plain (OpenSpec.upto pointSignsSpec)) pointSignsUptoCard

/-- THE SECOND FORM's CARD OF 'diacriticlaw02.PointTexts'. -/
def pointTextsUptoCard : Claim7 := { stood := { row := pointTextsUptoRow, standIns := [], harness := (true, "3139314fa28ab9696ba46b7cbab625cffa8cc6d5f77b40a6c5a20fad41114520"), looks := false }, kinds := [], alts := [], laidByText := true, laidKinds := [.data, .pinned], laidTests := true, laidLooks := .later }
def PointTextsUptoCardSaid : Prop := Claim7.holds Tryd.pinned (.plain (OpenSpec.upto pointTextsSpec)) pointTextsUptoCard

/-- THE SECOND FORM's CARD OF 'diacriticlaw02.PointReads'. -/
def pointReadsUptoCard : Claim7 := { stood := { row := pointReadsUptoRow, standIns := [], harness := (true, "3139314fa28ab9696ba46b7cbab625cffa8cc6d5f77b40a6c5a20fad41114520"), looks := false }, kinds := [], alts := [], laidByText := true, laidKinds := [.data, .pinned], laidTests := true, laidLooks := .later }
def PointReadsUptoCardSaid : Prop := Claim7.holds Tryd.pinned (.plain (OpenSpec.upto pointReadsSpec)) pointReadsUptoCard

/-- THE SECOND FORM's CARD OF 'diacriticlaw02.PointPlain'. -/
def pointPlainUptoCard : Claim7 := { stood := { row := pointPlainUptoRow, standIns := [], harness := (true, "3139314fa28ab9696ba46b7cbab625cffa8cc6d5f77b40a6c5a20fad41114520"), looks := false }, kinds := [], alts := [], laidByText := true, laidKinds := [.data, .pinned], laidTests := true, laidLooks := .later }
def PointPlainUptoCardSaid : Prop := Claim7.holds Tryd.pinned (.plain (OpenSpec.upto pointPlainSpec)) pointPlainUptoCard

/-- THE SECOND FORM's CARD OF 'diacriticlaw02.PointCuts'. -/
def pointCutsUptoCard : Claim7 := { stood := { row := pointCutsUptoRow, standIns := [], harness := (true, "3139314fa28ab9696ba46b7cbab625cffa8cc6d5f77b40a6c5a20fad41114520"), looks := false }, kinds := [], alts := [], laidByText := true, laidKinds := [.data, .pinned], laidTests := true, laidLooks := .later }
def PointCutsUptoCardSaid : Prop := Claim7.holds Tryd.pinned (.plain (OpenSpec.upto pointCutsSpec)) pointCutsUptoCard
end Rows
end Go.Proofs.YtkhcmgnempjjcaaDoor
