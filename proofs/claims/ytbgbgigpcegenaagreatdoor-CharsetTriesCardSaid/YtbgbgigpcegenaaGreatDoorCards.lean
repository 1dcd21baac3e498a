/-
  DERIVED. GIVEN WITH THE SEED: THE CARDS: each row of YtbgbgigpcegenaaGreatDoorRows.lean that lists a variable, with what it lists TIED to the program's text (the seventh form; the later family's looks); each row that meets fmt, with fmt's text TOLD by the authors' own Lean function (tested against real Go, not proved from fmt's source: count such statements apart). THE CARD IS WHAT COUNTS. Prove the row's statement (the work); the ties are given (YtbgbgigpcegenaaGreatDoorTie.lean); close each card by the builder's one call (the guide's Derived/Test/ToyasCard.lean, 'card_holds'). Laid BY PROGRAM, IN A SANDBOX (cutbox-door.mjs). By AI agents, Wed Nov 11 2026. No macro, syntax, notation, axiom, sorry.
-/
import Derived.Test.YtbgbgigpcegenaaGreatDoorRows
import GoSem.ClaimSeven
namespace Go.Proofs.YtbgbgigpcegenaaGreatDoor
namespace Rows

/-- THE TIED CARD OF 'diacriticlaw09.CharsetTries'. -/
def charsetTriesCard : Claim7 := { stood := { row := charsetTriesRow, standIns := [], harness := (true, "23b848c1620576006ef3a7e618110dbaa50216376a7d60b813dc656c61b5de69"), looks := false }, kinds := [], alts := [], laidByText := true, laidKinds := [.data, .data, .data, .data, .pinned], laidTests := true, laidLooks := .later }
def CharsetTriesCardSaid : Prop := Claim7.holds Tryz.pinned (.plain (OpenSpec.ofChange charsetTriesSpec)) charsetTriesCard

/-- THE TIED CARD OF 'diacriticlaw09.CharsetPlain'. -/
def charsetPlainCard : Claim7 := { stood := { row := charsetPlainRow, standIns := [], harness := (true, "23b848c1620576006ef3a7e618110dbaa50216376a7d60b813dc656c61b5de69"), looks := false }, kinds := [], alts := [], laidByText := true, laidKinds := [.data, .data, .data, .data, .pinned], laidTests := true, laidLooks := .later }
def CharsetPlainCardSaid : Prop := Claim7.holds Tryz.pinned (.plain (OpenSpec.ofChange charsetPlainSpec)) charsetPlainCard

/-- THE TIED CARD OF 'diacriticlaw09.CharsetCuts'. -/
def charsetCutsCard : Claim7 := { stood := { row := charsetCutsRow, standIns := [], harness := (true, "23b848c1620576006ef3a7e618110dbaa50216376a7d60b813dc656c61b5de69"), looks := false }, kinds := [], alts := [], laidByText := true, laidKinds := [.data, .data, .data, .data, .pinned], laidTests := true, laidLooks := .later }
def CharsetCutsCardSaid : Prop := Claim7.holds Tryz.pinned (.plain (OpenSpec.ofChange charsetCutsSpec)) charsetCutsCard

/-- THE SECOND FORM's CARD OF 'diacriticlaw09.CharsetTries'. -/
def charsetTriesUptoCard : Claim7 := { stood := { row := charsetTriesUptoRow, standIns := [], harness := (true, "23b848c1620576006ef3a7e618110dbaa50216376a7d60b813dc656c61b5de69"), looks := false }, kinds := [], alts := [], laidByText := true, laidKinds := [.data, .data, .data, .data, .pinned], laidTests := true, laidLooks := .later }
def CharsetTriesUptoCardSaid : Prop := Claim7.holds Tryz.pinned (.plain (OpenSpec.upto charsetTriesSpec)) charsetTriesUptoCard

/-- THE SECOND FORM's CARD OF 'diacriticlaw09.CharsetPlain'. -/
def charsetPlainUptoCard : Claim7 := { stood := { row := charsetPlainUptoRow, standIns := [], harness := (true, "23b848c1620576006ef3a7e618110dbaa50216376a7d60b813dc656c61b5de69"), looks := false }, kinds := [], alts := [], laidByText := true, laidKinds := [.data, .data, .data, .data, .pinned], laidTests := true, laidLooks := .later }
def CharsetPlainUptoCardSaid : Prop := Claim7.holds Tryz.pinned (.plain (OpenSpec.upto charsetPlainSpec)) charsetPlainUptoCard

/-- THE SECOND FORM's CARD OF 'diacriticlaw09.CharsetCuts'. -/
def charsetCutsUptoCard : Claim7 := { stood := { row := charsetCutsUptoRow, standIns := [], harness := (true, "23b848c1620576006ef3a7e618110dbaa50216376a7d60b813dc656c61b5de69"), looks := false }, kinds := [], alts := [], laidByText := true, laidKinds := [.data, .data, .data, .data, .pinned], laidTests := true, laidLooks := .later }
def CharsetCutsUptoCardSaid : Prop := Claim7.holds Tryz.pinned (.plain (OpenSpec.upto charsetCutsSpec)) charsetCutsUptoCard
end Rows
end Go.Proofs.YtbgbgigpcegenaaGreatDoor
