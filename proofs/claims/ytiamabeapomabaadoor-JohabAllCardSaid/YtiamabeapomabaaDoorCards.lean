/-
  DERIVED. GIVEN WITH THE SEED: THE CARDS: each row of YtiamabeapomabaaDoorRows.lean that lists a variable, with what it lists TIED to the program's text (the seventh form; the later family's looks); each row that meets fmt, with fmt's text TOLD by the authors' own Lean function (tested against real Go, not proved from fmt's source: count such statements apart). THE CARD IS WHAT COUNTS. Prove the row's statement (the work); the ties are given (YtiamabeapomabaaDoorTie.lean); close each card by the builder's one call (the guide's Derived/Test/ToyasCard.lean, 'card_holds'). Laid BY PROGRAM, IN A SANDBOX (cutbox-door.mjs). By AI agents, Wed Nov 11 2026. No macro, syntax, notation, axiom, sorry.
-/
import Derived.Test.YtiamabeapomabaaDoorRows
import GoSem.ClaimSeven
namespace Go.Proofs.YtiamabeapomabaaDoor
namespace Rows

/-- THE TIED CARD OF 'diacriticlaw06.JohabSigns'. -/
def johabSignsCard : Claim7 := { stood := { row := johabSignsRow, standIns := [], harness := (true, "2abe105a3715da44b896939e9f05971f198d41e28972ee3f7483425cbd07630e"), looks := false }, kinds := [], alts := [], laidByText := true, laidKinds := [.data], laidTests := true, laidLooks := .later }
def JohabSignsCardSaid : Prop := Claim7.holds Tryd.pinned (.plain (OpenSpec.ofChange johabSignsSpec)) johabSignsCard

/-- THE TIED CARD OF 'diacriticlaw06.JohabBytes'. -/
def johabBytesCard : Claim7 := { stood := { row := johabBytesRow, standIns := [], harness := (true, "2abe105a3715da44b896939e9f05971f198d41e28972ee3f7483425cbd07630e"), looks := false }, kinds := [], alts := [], laidByText := true, laidKinds := [.data], laidTests := true, laidLooks := .later }
def JohabBytesCardSaid : Prop := Claim7.holds Tryd.pinned (.plain (OpenSpec.ofChange johabBytesSpec)) johabBytesCard

/-- THE TIED CARD OF 'diacriticlaw06.JohabParts'. -/
def johabPartsCard : Claim7 := { stood := { row := johabPartsRow, standIns := [], harness := (true, "2abe105a3715da44b896939e9f05971f198d41e28972ee3f7483425cbd07630e"), looks := false }, kinds := [], alts := [], laidByText := true, laidKinds := [.data], laidTests := true, laidLooks := .later }
def JohabPartsCardSaid : Prop := Claim7.holds Tryd.pinned (.plain (OpenSpec.ofChange johabPartsSpec)) johabPartsCard

/-- THE TIED CARD OF 'diacriticlaw06.JohabAll'. -/
def johabAllCard : Claim7 := { stood := { row := johabAllRow, standIns := [], harness := (true, "2abe105a3715da44b896939e9f05971f198d41e28972ee3f7483425cbd07630e"), looks := false }, kinds := [], alts := [], laidByText := true, laidKinds := [.data], laidTests := true, laidLooks := .later }
def JohabAllCardSaid : Prop := Claim7.holds Tryd.pinned (.plain (OpenSpec.ofChange johabAllSpec)) johabAllCard

/-- THE SECOND FORM's CARD OF 'diacriticlaw06.JohabSigns'. -/
def johabSignsUptoCard : Claim7 := { stood := { row := johabSignsUptoRow, standIns := [], harness := (true, "2abe105a3715da44b896939e9f05971f198d41e28972ee3f7483425cbd07630e"), looks := false }, kinds := [], alts := [], laidByText := true, laidKinds := [.data], laidTests := true, laidLooks := .later }
def JohabSignsUptoCardSaid : Prop := Claim7.holds Tryd.pinned (.plain (OpenSpec.upto johabSignsSpec)) johabSignsUptoCard

/-- THE SECOND FORM's CARD OF 'diacriticlaw06.JohabBytes'. -/
def johabBytesUptoCard : Claim7 := { stood := { row := johabBytesUptoRow, standIns := [], harness := (true, "2abe105a3715da44b896939e9f05971f198d41e28972ee3f7483425cbd07630e"), looks := false }, kinds := [], alts := [], laidByText := true, laidKinds := [.data], laidTests := true, laidLooks := .later }
def JohabBytesUptoCardSaid : Prop := Claim7.holds Tryd.pinned (.plain (OpenSpec.upto johabBytesSpec)) johabBytesUptoCard

/-- THE SECOND FORM's CARD OF 'diacriticlaw06.JohabParts'. -/
def johabPartsUptoCard : Claim7 := { stood := { row := johabPartsUptoRow, standIns := [], harness := (true, "2abe105a3715da44b896939e9f05971f198d41e28972ee3f7483425cbd07630e"), looks := false }, kinds := [], alts := [], laidByText := true, laidKinds := [.data], laidTests := true, laidLooks := .later }
def JohabPartsUptoCardSaid : Prop := Claim7.holds Tryd.pinned (.plain (OpenSpec.upto johabPartsSpec)) johabPartsUptoCard

/-- THE SECOND FORM's CARD OF 'diacriticlaw06.JohabAll'. -/
def johabAllUptoCard : Claim7 := { stood := { row := johabAllUptoRow, standIns := [], harness := (true, "2abe105a3715da44b896939e9f05971f198d41e28972ee3f7483425cbd07630e"), looks := false }, kinds := [], alts := [], laidByText := true, laidKinds := [.data], laidTests := true, laidLooks := .later }
def JohabAllUptoCardSaid : Prop := Claim7.holds Tryd.pinned (.plain (OpenSpec.upto johabAllSpec)) johabAllUptoCard
end Rows
end Go.Proofs.YtiamabeapomabaaDoor
