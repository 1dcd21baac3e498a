/-
  DERIVED: THE SHELF's CONTRACTS AT THIS DUMP, IN PLAIN WORDS (tools/lay-plain.mjs out of 'TryzShelf2.lean', which tools/lay-shelf.mjs wrote): THE SAME DECLARATIONS UNDER THE SAME NAMES: 'import', 'namespace', 'open', 'def', 'theorem' AND NOTHING ELSE: no command of the shelf's: FOR A HAND-IN. Each laying: the table of numbers ('.._ren') and one theorem, a field a fact of the dump's own or the kernel's comparison; each contract: ONE APPLICATION.
-/
import Derived.Shelf.SlSortCmp.WholeK
import Derived.Shelf.SlicesQ.IndexFunc
import Derived.Shelf.SlicesE.Clone
import Derived.Test.YthnadkokibcehaaGreatDoorProg
namespace Go.Proofs
open Go.Shelf
def Tryz.sortRows_ren : Go.Shelf.Ren := ⟨fun | 6 => 132 | 15 => 155 | 14 => 154 | 28 => 169 | 29 => 170 | 20 => 161 | 21 => 162 | 22 => 163 | 23 => 164 | 24 => 165 | 25 => 166 | 26 => 167 | 27 => 168 | 46 => 173 | 47 => 174 | 48 => 175 | 49 => 176 | 50 => 177 | 57 => 178 | n => n, fun | 22 => 45 | 24 => 114 | 25 => 159 | 3 => 3 | 39 => 88 | 0 => 0 | 53 => 116 | 55 => 92 | 4 => 4 | 46 => 177 | 45 => 176 | 50 => 75 | 5 => 5 | 9 => 9 | 66 => 185 | 70 => 189 | 76 => 191 | 77 => 192 | n => n, fun | n => n⟩
theorem Tryz.sortRows : Go.Proofs.SlLaysF0.n6 Tryz.prog Tryz.sortRows_ren := {
  mixed := by kernel_rfl
  f6 := ⟨Tryz.f132.name, by decide, Tryz.func132.trans (congrArg some (by kernel_rfl))⟩
  f14 := ⟨Tryz.f154.name, by decide, Tryz.func154.trans (congrArg some (by kernel_rfl))⟩
  f15 := Tryz.func155.trans (congrArg some (by kernel_rfl))
  f20 := ⟨Tryz.f161.name, by decide, Tryz.func161.trans (congrArg some (by kernel_rfl))⟩
  f21 := ⟨Tryz.f162.name, by decide, Tryz.func162.trans (congrArg some (by kernel_rfl))⟩
  f22 := ⟨Tryz.f163.name, by decide, Tryz.func163.trans (congrArg some (by kernel_rfl))⟩
  f23 := ⟨Tryz.f164.name, by decide, Tryz.func164.trans (congrArg some (by kernel_rfl))⟩
  f24 := ⟨Tryz.f165.name, by decide, Tryz.func165.trans (congrArg some (by kernel_rfl))⟩
  f25 := ⟨Tryz.f166.name, by decide, Tryz.func166.trans (congrArg some (by kernel_rfl))⟩
  f26 := ⟨Tryz.f167.name, by decide, Tryz.func167.trans (congrArg some (by kernel_rfl))⟩
  f27 := ⟨Tryz.f168.name, by decide, Tryz.func168.trans (congrArg some (by kernel_rfl))⟩
  f28 := Tryz.func169.trans (congrArg some (by kernel_rfl))
  f29 := Tryz.func170.trans (congrArg some (by kernel_rfl))
  f46 := ⟨Tryz.f173.name, by decide, Tryz.func173.trans (congrArg some (by kernel_rfl))⟩
  f47 := Tryz.func174.trans (congrArg some (by kernel_rfl))
  f48 := Tryz.func175.trans (congrArg some (by kernel_rfl))
  f49 := ⟨Tryz.f176.name, by decide, Tryz.func176.trans (congrArg some (by kernel_rfl))⟩
  f50 := ⟨Tryz.f177.name, by decide, Tryz.func177.trans (congrArg some (by kernel_rfl))⟩
  f57 := ⟨Tryz.f178.name, by decide, Tryz.func178.trans (congrArg some (by kernel_rfl))⟩
  t0 := Tryz.underlying0
  a0 := Tryz.isAgg0
  z0 := Tryz.sizeOf0
  v0 := Tryz.zeroValue0
  t3 := Tryz.underlying3
  a3 := Tryz.isAgg3
  z3 := Tryz.sizeOf3
  v3 := Tryz.zeroValue3
  t4 := Tryz.underlying4
  a4 := Tryz.isAgg4
  z4 := Tryz.sizeOf4
  v4 := Tryz.zeroValue4
  t5 := Tryz.underlying5
  a5 := Tryz.isAgg5
  z5 := Tryz.sizeOf5
  v5 := Tryz.zeroValue5
  t9 := Tryz.underlying9
  a9 := Tryz.isAgg9
  z9 := Tryz.sizeOf9
  v9 := Tryz.zeroValue9
  t22 := Tryz.underlying45
  a22 := Tryz.isAgg45
  z22 := Tryz.sizeOf45
  v22 := Tryz.zeroValue45
  t25 := Tryz.underlying159
  a25 := Tryz.isAgg159
  z25 := Tryz.sizeOf159
  v25 := Tryz.zeroValue159
  t39 := Tryz.underlying88
  a39 := Tryz.isAgg88
  z39 := Tryz.sizeOf88
  v39 := Tryz.zeroValue88
  t45 := Tryz.underlying176
  a45 := Tryz.isAgg176
  z45 := Tryz.sizeOf176
  v45 := Tryz.zeroValue176
  t46 := Tryz.underlying177
  a46 := Tryz.isAgg177
  z46 := Tryz.sizeOf177
  v46 := Tryz.zeroValue177
  t50 := Tryz.underlying75
  a50 := Tryz.isAgg75
  z50 := Tryz.sizeOf75
  v50 := Tryz.zeroValue75
  t53 := Tryz.underlying116
  a53 := Tryz.isAgg116
  z53 := Tryz.sizeOf116
  v53 := Tryz.zeroValue116
  t55 := Tryz.underlying92
  a55 := Tryz.isAgg92
  z55 := Tryz.sizeOf92
  v55 := Tryz.zeroValue92
  t66 := Tryz.underlying185
  a66 := Tryz.isAgg185
  z66 := Tryz.sizeOf185
  v66 := Tryz.zeroValue185
  t70 := Tryz.underlying189
  a70 := Tryz.isAgg189
  z70 := Tryz.sizeOf189
  v70 := Tryz.zeroValue189
  t76 := Tryz.underlying191
  a76 := Tryz.isAgg191
  z76 := Tryz.sizeOf191
  v76 := Tryz.zeroValue191
  t77 := Tryz.underlying192
  a77 := Tryz.isAgg192
  z77 := Tryz.sizeOf192
  v77 := Tryz.zeroValue192 }
def Tryz.idxRows_ren : Go.Shelf.Ren := ⟨fun | 6 => 86 | n => n, fun | 22 => 45 | 23 => 114 | 25 => 118 | 3 => 3 | 0 => 0 | 4 => 4 | n => n, fun | n => n⟩
theorem Tryz.idxRows : Go.Proofs.SlLaysH0.n6 Tryz.prog Tryz.idxRows_ren := {
  mixed := by kernel_rfl
  f6 := ⟨Tryz.f86.name, by decide, Tryz.func86.trans (congrArg some (by kernel_rfl))⟩
  t0 := Tryz.underlying0
  a0 := Tryz.isAgg0
  z0 := Tryz.sizeOf0
  v0 := Tryz.zeroValue0
  t3 := Tryz.underlying3
  a3 := Tryz.isAgg3
  z3 := Tryz.sizeOf3
  v3 := Tryz.zeroValue3
  t4 := Tryz.underlying4
  a4 := Tryz.isAgg4
  z4 := Tryz.sizeOf4
  v4 := Tryz.zeroValue4
  t22 := Tryz.underlying45
  a22 := Tryz.isAgg45
  z22 := Tryz.sizeOf45
  v22 := Tryz.zeroValue45
  t25 := Tryz.underlying118
  a25 := Tryz.isAgg118
  z25 := Tryz.sizeOf118
  v25 := Tryz.zeroValue118 }
def Tryz.cloneRows_ren : Go.Shelf.Ren := ⟨fun | 41 => 93 | n => n, fun | 22 => 45 | 23 => 114 | 4 => 4 | n => n, fun | n => n⟩
theorem Tryz.cloneRows : Go.Proofs.SlLaysE0.n41 Tryz.prog Tryz.cloneRows_ren := {
  mixed := by kernel_rfl
  f41 := ⟨Tryz.f93.name, by decide, Tryz.func93.trans (congrArg some (by kernel_rfl))⟩
  t4 := Tryz.underlying4
  a4 := Tryz.isAgg4
  z4 := Tryz.sizeOf4
  v4 := Tryz.zeroValue4
  t22 := Tryz.underlying45
  a22 := Tryz.isAgg45
  z22 := Tryz.sizeOf45
  v22 := Tryz.zeroValue45 }
end Go.Proofs
