/-
  DERIVED. GIVEN WITH THE SEED: THE CARDS: each row of YthnadkokibcehaaGreatDoorRows.lean that lists a variable, with what it lists TIED to the program's text (the seventh form; the later family's looks); each row that meets fmt, with fmt's text TOLD by the authors' own Lean function (tested against real Go, not proved from fmt's source: count such statements apart). THE CARD IS WHAT COUNTS. Prove the row's statement (the work); the ties are given (YthnadkokibcehaaGreatDoorTie.lean); close each card by the builder's one call (the guide's Derived/Test/ToyasCard.lean, 'card_holds'). Laid BY PROGRAM, IN A SANDBOX (cutbox-door.mjs). By AI agents, Wed Nov 11 2026. No macro, syntax, notation, axiom, sorry.
-/
import Derived.Test.YthnadkokibcehaaGreatDoorRows
import GoSem.ClaimSeven
namespace Go.Proofs.YthnadkokibcehaaGreatDoor
namespace Rows

/-- THE TIED CARD OF 'diacriticlaw09.CharsetNames'. -/
def charsetNamesCard : Claim7 := { stood := { row := charsetNamesRow, standIns := [], harness := (true, "2e37a4fcb5cd53671a628de5f0b8c810037c949608bc83639c2c67e811292512"), looks := false }, kinds := [], alts := [], laidByText := true, laidKinds := [.data, .data, .data, .data, .pinned], laidTests := true, laidLooks := .later }
def CharsetNamesCardSaid : Prop := Claim7.holds Tryz.pinned (.plain (OpenSpec.ofChange charsetNamesSpec)) charsetNamesCard

/-- THE SECOND FORM's CARD OF 'diacriticlaw09.CharsetNames'. -/
def charsetNamesUptoCard : Claim7 := { stood := { row := charsetNamesUptoRow, standIns := [], harness := (true, "2e37a4fcb5cd53671a628de5f0b8c810037c949608bc83639c2c67e811292512"), looks := false }, kinds := [], alts := [], laidByText := true, laidKinds := [.data, .data, .data, .data, .pinned], laidTests := true, laidLooks := .later }
def CharsetNamesUptoCardSaid : Prop := Claim7.holds Tryz.pinned (.plain (OpenSpec.upto charsetNamesSpec)) charsetNamesUptoCard
end Rows
end Go.Proofs.YthnadkokibcehaaGreatDoor
