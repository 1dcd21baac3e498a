/-
  DERIVED: THE SHELF's CONTRACTS AT THIS DUMP, IN PLAIN WORDS (tools/lay-plain.mjs out of 'TryzShelf2.lean', which tools/lay-shelf.mjs wrote): THE SAME DECLARATIONS UNDER THE SAME NAMES: 'import', 'namespace', 'open', 'def', 'theorem' AND NOTHING ELSE: no command of the shelf's: FOR A HAND-IN. Each laying: the table of numbers ('.._ren') and one theorem, a field a fact of the dump's own or the kernel's comparison; each contract: ONE APPLICATION.
-/
import Derived.Shelf.SlSortCmp.WholeK
import Derived.Shelf.SlicesQ.IndexFunc
import Derived.Shelf.SlicesE.Clone
import Derived.Test.YtiigknimfibdpaaGreatDoorProg
namespace Go.Proofs
open Go.Shelf
def Tryz.sortRows_ren : Go.Shelf.Ren := ⟨fun | 6 => 197 | 15 => 217 | 14 => 216 | 28 => 228 | 29 => 229 | 20 => 220 | 21 => 221 | 22 => 222 | 23 => 223 | 24 => 224 | 25 => 225 | 26 => 226 | 27 => 227 | 46 => 231 | 47 => 232 | 48 => 233 | 49 => 234 | 50 => 235 | 57 => 236 | n => n, fun | 22 => 72 | 24 => 145 | 25 => 208 | 3 => 3 | 39 => 117 | 0 => 0 | 53 => 179 | 55 => 132 | 4 => 4 | 46 => 221 | 45 => 220 | 50 => 23 | 5 => 5 | 9 => 9 | 66 => 228 | 70 => 232 | 76 => 234 | 77 => 38 | n => n, fun | n => n⟩
theorem Tryz.sortRows : Go.Proofs.SlLaysF0.n6 Tryz.prog Tryz.sortRows_ren := {
  mixed := by kernel_rfl
  f6 := ⟨Tryz.f197.name, by decide, Tryz.func197.trans (congrArg some (by kernel_rfl))⟩
  f14 := ⟨Tryz.f216.name, by decide, Tryz.func216.trans (congrArg some (by kernel_rfl))⟩
  f15 := Tryz.func217.trans (congrArg some (by kernel_rfl))
  f20 := ⟨Tryz.f220.name, by decide, Tryz.func220.trans (congrArg some (by kernel_rfl))⟩
  f21 := ⟨Tryz.f221.name, by decide, Tryz.func221.trans (congrArg some (by kernel_rfl))⟩
  f22 := ⟨Tryz.f222.name, by decide, Tryz.func222.trans (congrArg some (by kernel_rfl))⟩
  f23 := ⟨Tryz.f223.name, by decide, Tryz.func223.trans (congrArg some (by kernel_rfl))⟩
  f24 := ⟨Tryz.f224.name, by decide, Tryz.func224.trans (congrArg some (by kernel_rfl))⟩
  f25 := ⟨Tryz.f225.name, by decide, Tryz.func225.trans (congrArg some (by kernel_rfl))⟩
  f26 := ⟨Tryz.f226.name, by decide, Tryz.func226.trans (congrArg some (by kernel_rfl))⟩
  f27 := ⟨Tryz.f227.name, by decide, Tryz.func227.trans (congrArg some (by kernel_rfl))⟩
  f28 := Tryz.func228.trans (congrArg some (by kernel_rfl))
  f29 := Tryz.func229.trans (congrArg some (by kernel_rfl))
  f46 := ⟨Tryz.f231.name, by decide, Tryz.func231.trans (congrArg some (by kernel_rfl))⟩
  f47 := Tryz.func232.trans (congrArg some (by kernel_rfl))
  f48 := Tryz.func233.trans (congrArg some (by kernel_rfl))
  f49 := ⟨Tryz.f234.name, by decide, Tryz.func234.trans (congrArg some (by kernel_rfl))⟩
  f50 := ⟨Tryz.f235.name, by decide, Tryz.func235.trans (congrArg some (by kernel_rfl))⟩
  f57 := ⟨Tryz.f236.name, by decide, Tryz.func236.trans (congrArg some (by kernel_rfl))⟩
  t0 := Tryz.underlying0
  a0 := Tryz.isAgg0
  z0 := Tryz.sizeOf0
  v0 := Tryz.zeroValue0
  t3 := Tryz.underlying3
  a3 := Tryz.isAgg3
  z3 := Tryz.sizeOf3
  v3 := Tryz.zeroValue3
  t4 := Tryz.underlying4
  a4 := Tryz.isAgg4
  z4 := Tryz.sizeOf4
  v4 := Tryz.zeroValue4
  t5 := Tryz.underlying5
  a5 := Tryz.isAgg5
  z5 := Tryz.sizeOf5
  v5 := Tryz.zeroValue5
  t9 := Tryz.underlying9
  a9 := Tryz.isAgg9
  z9 := Tryz.sizeOf9
  v9 := Tryz.zeroValue9
  t22 := Tryz.underlying72
  a22 := Tryz.isAgg72
  z22 := Tryz.sizeOf72
  v22 := Tryz.zeroValue72
  t25 := Tryz.underlying208
  a25 := Tryz.isAgg208
  z25 := Tryz.sizeOf208
  v25 := Tryz.zeroValue208
  t39 := Tryz.underlying117
  a39 := Tryz.isAgg117
  z39 := Tryz.sizeOf117
  v39 := Tryz.zeroValue117
  t45 := Tryz.underlying220
  a45 := Tryz.isAgg220
  z45 := Tryz.sizeOf220
  v45 := Tryz.zeroValue220
  t46 := Tryz.underlying221
  a46 := Tryz.isAgg221
  z46 := Tryz.sizeOf221
  v46 := Tryz.zeroValue221
  t50 := Tryz.underlying23
  a50 := Tryz.isAgg23
  z50 := Tryz.sizeOf23
  v50 := Tryz.zeroValue23
  t53 := Tryz.underlying179
  a53 := Tryz.isAgg179
  z53 := Tryz.sizeOf179
  v53 := Tryz.zeroValue179
  t55 := Tryz.underlying132
  a55 := Tryz.isAgg132
  z55 := Tryz.sizeOf132
  v55 := Tryz.zeroValue132
  t66 := Tryz.underlying228
  a66 := Tryz.isAgg228
  z66 := Tryz.sizeOf228
  v66 := Tryz.zeroValue228
  t70 := Tryz.underlying232
  a70 := Tryz.isAgg232
  z70 := Tryz.sizeOf232
  v70 := Tryz.zeroValue232
  t76 := Tryz.underlying234
  a76 := Tryz.isAgg234
  z76 := Tryz.sizeOf234
  v76 := Tryz.zeroValue234
  t77 := Tryz.underlying38
  a77 := Tryz.isAgg38
  z77 := Tryz.sizeOf38
  v77 := Tryz.zeroValue38 }
def Tryz.idxRows_ren : Go.Shelf.Ren := ⟨fun | 6 => 165 | n => n, fun | 22 => 72 | 23 => 145 | 25 => 183 | 3 => 3 | 0 => 0 | 4 => 4 | n => n, fun | n => n⟩
theorem Tryz.idxRows : Go.Proofs.SlLaysH0.n6 Tryz.prog Tryz.idxRows_ren := {
  mixed := by kernel_rfl
  f6 := ⟨Tryz.f165.name, by decide, Tryz.func165.trans (congrArg some (by kernel_rfl))⟩
  t0 := Tryz.underlying0
  a0 := Tryz.isAgg0
  z0 := Tryz.sizeOf0
  v0 := Tryz.zeroValue0
  t3 := Tryz.underlying3
  a3 := Tryz.isAgg3
  z3 := Tryz.sizeOf3
  v3 := Tryz.zeroValue3
  t4 := Tryz.underlying4
  a4 := Tryz.isAgg4
  z4 := Tryz.sizeOf4
  v4 := Tryz.zeroValue4
  t22 := Tryz.underlying72
  a22 := Tryz.isAgg72
  z22 := Tryz.sizeOf72
  v22 := Tryz.zeroValue72
  t25 := Tryz.underlying183
  a25 := Tryz.isAgg183
  z25 := Tryz.sizeOf183
  v25 := Tryz.zeroValue183 }
def Tryz.cloneRows_ren : Go.Shelf.Ren := ⟨fun | 41 => 153 | n => n, fun | 22 => 72 | 23 => 145 | 4 => 4 | n => n, fun | n => n⟩
theorem Tryz.cloneRows : Go.Proofs.SlLaysE0.n41 Tryz.prog Tryz.cloneRows_ren := {
  mixed := by kernel_rfl
  f41 := ⟨Tryz.f153.name, by decide, Tryz.func153.trans (congrArg some (by kernel_rfl))⟩
  t4 := Tryz.underlying4
  a4 := Tryz.isAgg4
  z4 := Tryz.sizeOf4
  v4 := Tryz.zeroValue4
  t22 := Tryz.underlying72
  a22 := Tryz.isAgg72
  z22 := Tryz.sizeOf72
  v22 := Tryz.zeroValue72 }
end Go.Proofs
