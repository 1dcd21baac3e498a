/- The document's answer of layer 3: Decode: a contract. -/
import Derived.Test.YthnadkokibcehaaGreatDoorZ22
import Derived.Lib.Join
import Derived.Deep.RegionHeld3
import Derived.Deep.AppendLies
namespace Go.Proofs.YthnadkokibcehaaGreatDoor.wd
open Go.RowKit Go.Lib
set_option linter.unusedVariables false
theorem data_app (t s : ByteArray) : (t ++ s).data.toList = t.data.toList ++ s.data.toList := by simp
end Go.Proofs.YthnadkokibcehaaGreatDoor.wd
