/-
  DERIVED. GIVEN WITH THE SEED: THE CARDS: each row of YtgjndekgnkjknaaGreatDoorRows.lean that lists a variable, with what it lists TIED to the program's text (the seventh form; the later family's looks); each row that meets fmt, with fmt's text TOLD by the authors' own Lean function (tested against real Go, not proved from fmt's source: count such statements apart). THE CARD IS WHAT COUNTS. Prove the row's statement (the work); the ties are given (YtgjndekgnkjknaaGreatDoorTie.lean); close each card by the builder's one call (the guide's Derived/Test/ToyasCard.lean, 'card_holds'). Laid BY PROGRAM, IN A SANDBOX (cutbox-door.mjs). By AI agents, Wed Nov 11 2026. No macro, syntax, notation, axiom, sorry.
-/
import Derived.Test.YtgjndekgnkjknaaGreatDoorRows
import GoSem.ClaimSeven
namespace Go.Proofs.YtgjndekgnkjknaaGreatDoor
namespace Rows

/-- THE TIED CARD OF 'diacriticlaw07.WansungRows'. -/
def wansungRowsCard : Claim7 := { stood := { row := wansungRowsRow, standIns := [], harness := (true, "f033ebb2ec28a545a13a20bb588b36a4b1b67b4e91f63975b3f5cd40eef145b5"), looks := false }, kinds := [], alts := [], laidByText := true, laidKinds := [.data, .pinned], laidTests := true, laidLooks := .later }
def WansungRowsCardSaid : Prop := Claim7.holds Tryz.pinned (.plain (OpenSpec.ofChange wansungRowsSpec)) wansungRowsCard

/-- THE SECOND FORM's CARD OF 'diacriticlaw07.WansungRows'. -/
def wansungRowsUptoCard : Claim7 := { stood := { row := wansungRowsUptoRow, standIns := [], harness := (true, "f033ebb2ec28a545a13a20bb588b36a4b1b67b4e91f63975b3f5cd40eef145b5"), looks := false }, kinds := [], alts := [], laidByText := true, laidKinds := [.data, .pinned], laidTests := true, laidLooks := .later }
def WansungRowsUptoCardSaid : Prop := Claim7.holds Tryz.pinned (.plain (OpenSpec.upto wansungRowsSpec)) wansungRowsUptoCard
end Rows
end Go.Proofs.YtgjndekgnkjknaaGreatDoor
