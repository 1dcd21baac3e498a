/-
  DERIVED. GIVEN WITH THE SEED: THE CARDS: each row of YtmogjimiiadmmaaDoorRows.lean that lists a variable, with what it lists TIED to the program's text (the seventh form; the later family's looks); each row that meets fmt, with fmt's text TOLD by the authors' own Lean function (tested against real Go, not proved from fmt's source: count such statements apart). THE CARD IS WHAT COUNTS. Prove the row's statement (the work); the ties are given (YtmogjimiiadmmaaDoorTie.lean); close each card by the builder's one call (the guide's Derived/Test/ToyasCard.lean, 'card_holds'). Laid BY PROGRAM, IN A SANDBOX (cutbox-door.mjs). By AI agents, Wed Nov 11 2026. No macro, syntax, notation, axiom, sorry.
-/
import Derived.Test.YtmogjimiiadmmaaDoorRows
import GoSem.ClaimSeven
namespace Go.Proofs.YtmogjimiiadmmaaDoor
namespace Rows

/-- THE TIED CARD OF 'diacriticlaw02.PointTexts'. -/
def pointTextsCard : Claim7 := { stood := { row := pointTextsRow, standIns := [], harness := (true, "f2b87e851e7a2ca08c1d0081b2dbc05a21facfb5ea52ea247d918ea5928f721f"), looks := false }, kinds := [], alts := [], laidByText := true, laidKinds := [.data, .pinned], laidTests := true, laidLooks := .later }
def PointTextsCardSaid : Prop := Claim7.holds Tryd.pinned (.plain (OpenSpec.ofChange pointTextsSpec)) pointTextsCard

/-- THE TIED CARD OF 'diacriticlaw02.PointCuts'. -/
def pointCutsCard : Claim7 := { stood := { row := pointCutsRow, standIns := [], harness := (true, "f2b87e851e7a2ca08c1d0081b2dbc05a21facfb5ea52ea247d918ea5928f721f"), looks := false }, kinds := [], alts := [], laidByText := true, laidKinds := [.data, .pinned], laidTests := true, laidLooks := .later }
def PointCutsCardSaid : Prop := Claim7.holds Tryd.pinned (.plain (OpenSpec.ofChange pointCutsSpec)) pointCutsCard

/-- THE TIED CARD OF 'diacriticlaw03.WideReads'. -/
def wideReadsCard : Claim7 := { stood := { row := wideReadsRow, standIns := [], harness := (true, "f2b87e851e7a2ca08c1d0081b2dbc05a21facfb5ea52ea247d918ea5928f721f"), looks := false }, kinds := [], alts := [], laidByText := true, laidKinds := [.data, .pinned], laidTests := true, laidLooks := .later }
def WideReadsCardSaid : Prop := Claim7.holds Tryd.pinned (.plain (OpenSpec.ofChange wideReadsSpec)) wideReadsCard

/-- THE TIED CARD OF 'diacriticlaw03.WideWrites'. -/
def wideWritesCard : Claim7 := { stood := { row := wideWritesRow, standIns := [], harness := (true, "f2b87e851e7a2ca08c1d0081b2dbc05a21facfb5ea52ea247d918ea5928f721f"), looks := false }, kinds := [], alts := [], laidByText := true, laidKinds := [.data, .pinned], laidTests := true, laidLooks := .later }
def WideWritesCardSaid : Prop := Claim7.holds Tryd.pinned (.plain (OpenSpec.ofChange wideWritesSpec)) wideWritesCard

/-- THE TIED CARD OF 'diacriticlaw03.WideMarks'. -/
def wideMarksCard : Claim7 := { stood := { row := wideMarksRow, standIns := [], harness := (true, "f2b87e851e7a2ca08c1d0081b2dbc05a21facfb5ea52ea247d918ea5928f721f"), looks := false }, kinds := [], alts := [], laidByText := true, laidKinds := [.data, .pinned], laidTests := true, laidLooks := .later }
def WideMarksCardSaid : Prop := Claim7.holds Tryd.pinned (.plain (OpenSpec.ofChange wideMarksSpec)) wideMarksCard

/-- THE TIED CARD OF 'diacriticlaw03.WideBack'. -/
def wideBackCard : Claim7 := { stood := { row := wideBackRow, standIns := [], harness := (true, "f2b87e851e7a2ca08c1d0081b2dbc05a21facfb5ea52ea247d918ea5928f721f"), looks := false }, kinds := [], alts := [], laidByText := true, laidKinds := [.data, .pinned], laidTests := true, laidLooks := .later }
def WideBackCardSaid : Prop := Claim7.holds Tryd.pinned (.plain (OpenSpec.ofChange wideBackSpec)) wideBackCard

/-- THE SECOND FORM's CARD OF 'diacriticlaw02.PointTexts'. -/
def pointTextsUptoCard : Claim7 := { stood := { row := pointTextsUptoRow, standIns := [], harness := (true, "f2b87e851e7a2ca08c1d0081b2dbc05a21facfb5ea52ea247d918ea5928f721f"), looks := false }, kinds := [], alts := [], laidByText := true, laidKinds := [.data, .pinned], laidTests := true, laidLooks := .later }
def PointTextsUptoCardSaid : Prop := Claim7.holds Tryd.pinned (.plain (OpenSpec.upto pointTextsSpec)) pointTextsUptoCard

/-- THE SECOND FORM's CARD OF 'diacriticlaw02.PointCuts'. -/
def pointCutsUptoCard : Claim7 := { stood := { row := pointCutsUptoRow, standIns := [], harness := (true, "f2b87e851e7a2ca08c1d0081b2dbc05a21facfb5ea52ea247d918ea5928f721f"), looks := false }, kinds := [], alts := [], laidByText := true, laidKinds := [.data, .pinned], laidTests := true, laidLooks := .later }
def PointCutsUptoCardSaid : Prop := Claim7.holds Tryd.pinned (.plain (OpenSpec.upto pointCutsSpec)) pointCutsUptoCard

/-- THE SECOND FORM's CARD OF 'diacriticlaw03.WideReads'. -/
def wideReadsUptoCard : Claim7 := { stood := { row := wideReadsUptoRow, standIns := [], harness := (true, "f2b87e851e7a2ca08c1d0081b2dbc05a21facfb5ea52ea247d918ea5928f721f"), looks := false }, kinds := [], alts := [], laidByText := true, laidKinds := [.data, .pinned], laidTests := true, laidLooks := .later }
def WideReadsUptoCardSaid : Prop := Claim7.holds Tryd.pinned (.plain (OpenSpec.upto wideReadsSpec)) wideReadsUptoCard

/-- THE SECOND FORM's CARD OF 'diacriticlaw03.WideWrites'. -/
def wideWritesUptoCard : Claim7 := { stood := { row := wideWritesUptoRow, standIns := [], harness := (true, "f2b87e851e7a2ca08c1d0081b2dbc05a21facfb5ea52ea247d918ea5928f721f"), looks := false }, kinds := [], alts := [], laidByText := true, laidKinds := [.data, .pinned], laidTests := true, laidLooks := .later }
def WideWritesUptoCardSaid : Prop := Claim7.holds Tryd.pinned (.plain (OpenSpec.upto wideWritesSpec)) wideWritesUptoCard

/-- THE SECOND FORM's CARD OF 'diacriticlaw03.WideMarks'. -/
def wideMarksUptoCard : Claim7 := { stood := { row := wideMarksUptoRow, standIns := [], harness := (true, "f2b87e851e7a2ca08c1d0081b2dbc05a21facfb5ea52ea247d918ea5928f721f"), looks := false }, kinds := [], alts := [], laidByText := true, laidKinds := [.data, .pinned], laidTests := true, laidLooks := .later }
def WideMarksUptoCardSaid : Prop := Claim7.holds Tryd.pinned (.plain (OpenSpec.upto wideMarksSpec)) wideMarksUptoCard

/-- THE SECOND FORM's CARD OF 'diacriticlaw03.WideBack'. -/
def wideBackUptoCard : Claim7 := { stood := { row := wideBackUptoRow, standIns := [], harness := (true, "f2b87e851e7a2ca08c1d0081b2dbc05a21facfb5ea52ea247d918ea5928f721f"), looks := false }, kinds := [], alts := [], laidByText := true, laidKinds := [.data, .pinned], laidTests := true, laidLooks := .later }
def WideBackUptoCardSaid : Prop := Claim7.holds Tryd.pinned (.plain (OpenSpec.upto wideBackSpec)) wideBackUptoCard
end Rows
end Go.Proofs.YtmogjimiiadmmaaDoor
