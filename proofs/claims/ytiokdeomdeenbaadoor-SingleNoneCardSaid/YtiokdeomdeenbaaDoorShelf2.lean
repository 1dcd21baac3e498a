/-
  DERIVED: THE SHELF's CONTRACTS AT THIS DUMP, IN PLAIN WORDS (tools/lay-plain.mjs out of 'TrydShelf2.lean', which tools/lay-shelf.mjs wrote): THE SAME DECLARATIONS UNDER THE SAME NAMES: 'import', 'namespace', 'open', 'def', 'theorem' AND NOTHING ELSE: no command of the shelf's: FOR A HAND-IN. Each laying: the table of numbers ('.._ren') and one theorem, a field a fact of the dump's own or the kernel's comparison; each contract: ONE APPLICATION.
-/
import Derived.Shelf.SlSortCmp.WholeK
import Derived.Shelf.SlicesQ.IndexFunc
import Derived.Shelf.SlicesE.Clone
import Derived.Test.YtiokdeomdeenbaaDoorProg
namespace Go.Proofs
open Go.Shelf
def Tryd.sortRows_ren : Go.Shelf.Ren := ⟨fun | 6 => 65 | 15 => 86 | 14 => 85 | 28 => 102 | 29 => 103 | 20 => 94 | 21 => 95 | 22 => 96 | 23 => 97 | 24 => 98 | 25 => 99 | 26 => 100 | 27 => 101 | 46 => 106 | 47 => 107 | 48 => 108 | 49 => 109 | 50 => 110 | 57 => 112 | n => n, fun | 22 => 25 | 24 => 85 | 25 => 113 | 3 => 3 | 39 => 126 | 0 => 0 | 53 => 128 | 55 => 139 | 4 => 4 | 46 => 132 | 45 => 131 | 50 => 43 | 5 => 5 | 9 => 9 | 66 => 140 | 70 => 144 | 76 => 151 | 77 => 152 | n => n, fun | n => n⟩
theorem Tryd.sortRows : Go.Proofs.SlLaysF0.n6 Tryd.prog Tryd.sortRows_ren := {
  mixed := by kernel_rfl
  f6 := ⟨Tryd.f65.name, by decide, Tryd.func65.trans (congrArg some (by kernel_rfl))⟩
  f14 := ⟨Tryd.f85.name, by decide, Tryd.func85.trans (congrArg some (by kernel_rfl))⟩
  f15 := Tryd.func86.trans (congrArg some (by kernel_rfl))
  f20 := ⟨Tryd.f94.name, by decide, Tryd.func94.trans (congrArg some (by kernel_rfl))⟩
  f21 := ⟨Tryd.f95.name, by decide, Tryd.func95.trans (congrArg some (by kernel_rfl))⟩
  f22 := ⟨Tryd.f96.name, by decide, Tryd.func96.trans (congrArg some (by kernel_rfl))⟩
  f23 := ⟨Tryd.f97.name, by decide, Tryd.func97.trans (congrArg some (by kernel_rfl))⟩
  f24 := ⟨Tryd.f98.name, by decide, Tryd.func98.trans (congrArg some (by kernel_rfl))⟩
  f25 := ⟨Tryd.f99.name, by decide, Tryd.func99.trans (congrArg some (by kernel_rfl))⟩
  f26 := ⟨Tryd.f100.name, by decide, Tryd.func100.trans (congrArg some (by kernel_rfl))⟩
  f27 := ⟨Tryd.f101.name, by decide, Tryd.func101.trans (congrArg some (by kernel_rfl))⟩
  f28 := Tryd.func102.trans (congrArg some (by kernel_rfl))
  f29 := Tryd.func103.trans (congrArg some (by kernel_rfl))
  f46 := ⟨Tryd.f106.name, by decide, Tryd.func106.trans (congrArg some (by kernel_rfl))⟩
  f47 := Tryd.func107.trans (congrArg some (by kernel_rfl))
  f48 := Tryd.func108.trans (congrArg some (by kernel_rfl))
  f49 := ⟨Tryd.f109.name, by decide, Tryd.func109.trans (congrArg some (by kernel_rfl))⟩
  f50 := ⟨Tryd.f110.name, by decide, Tryd.func110.trans (congrArg some (by kernel_rfl))⟩
  f57 := ⟨Tryd.f112.name, by decide, Tryd.func112.trans (congrArg some (by kernel_rfl))⟩
  t0 := Tryd.underlying0
  a0 := Tryd.isAgg0
  z0 := Tryd.sizeOf0
  v0 := Tryd.zeroValue0
  t3 := Tryd.underlying3
  a3 := Tryd.isAgg3
  z3 := Tryd.sizeOf3
  v3 := Tryd.zeroValue3
  t4 := Tryd.underlying4
  a4 := Tryd.isAgg4
  z4 := Tryd.sizeOf4
  v4 := Tryd.zeroValue4
  t5 := Tryd.underlying5
  a5 := Tryd.isAgg5
  z5 := Tryd.sizeOf5
  v5 := Tryd.zeroValue5
  t9 := Tryd.underlying9
  a9 := Tryd.isAgg9
  z9 := Tryd.sizeOf9
  v9 := Tryd.zeroValue9
  t22 := Tryd.underlying25
  a22 := Tryd.isAgg25
  z22 := Tryd.sizeOf25
  v22 := Tryd.zeroValue25
  t25 := Tryd.underlying113
  a25 := Tryd.isAgg113
  z25 := Tryd.sizeOf113
  v25 := Tryd.zeroValue113
  t39 := Tryd.underlying126
  a39 := Tryd.isAgg126
  z39 := Tryd.sizeOf126
  v39 := Tryd.zeroValue126
  t45 := Tryd.underlying131
  a45 := Tryd.isAgg131
  z45 := Tryd.sizeOf131
  v45 := Tryd.zeroValue131
  t46 := Tryd.underlying132
  a46 := Tryd.isAgg132
  z46 := Tryd.sizeOf132
  v46 := Tryd.zeroValue132
  t50 := Tryd.underlying43
  a50 := Tryd.isAgg43
  z50 := Tryd.sizeOf43
  v50 := Tryd.zeroValue43
  t53 := Tryd.underlying128
  a53 := Tryd.isAgg128
  z53 := Tryd.sizeOf128
  v53 := Tryd.zeroValue128
  t55 := Tryd.underlying139
  a55 := Tryd.isAgg139
  z55 := Tryd.sizeOf139
  v55 := Tryd.zeroValue139
  t66 := Tryd.underlying140
  a66 := Tryd.isAgg140
  z66 := Tryd.sizeOf140
  v66 := Tryd.zeroValue140
  t70 := Tryd.underlying144
  a70 := Tryd.isAgg144
  z70 := Tryd.sizeOf144
  v70 := Tryd.zeroValue144
  t76 := Tryd.underlying151
  a76 := Tryd.isAgg151
  z76 := Tryd.sizeOf151
  v76 := Tryd.zeroValue151
  t77 := Tryd.underlying152
  a77 := Tryd.isAgg152
  z77 := Tryd.sizeOf152
  v77 := Tryd.zeroValue152 }
def Tryd.idxRows_ren : Go.Shelf.Ren := ⟨fun | 6 => 44 | n => n, fun | 22 => 25 | 23 => 85 | 25 => 90 | 3 => 3 | 0 => 0 | 4 => 4 | n => n, fun | n => n⟩
theorem Tryd.idxRows : Go.Proofs.SlLaysH0.n6 Tryd.prog Tryd.idxRows_ren := {
  mixed := by kernel_rfl
  f6 := ⟨Tryd.f44.name, by decide, Tryd.func44.trans (congrArg some (by kernel_rfl))⟩
  t0 := Tryd.underlying0
  a0 := Tryd.isAgg0
  z0 := Tryd.sizeOf0
  v0 := Tryd.zeroValue0
  t3 := Tryd.underlying3
  a3 := Tryd.isAgg3
  z3 := Tryd.sizeOf3
  v3 := Tryd.zeroValue3
  t4 := Tryd.underlying4
  a4 := Tryd.isAgg4
  z4 := Tryd.sizeOf4
  v4 := Tryd.zeroValue4
  t22 := Tryd.underlying25
  a22 := Tryd.isAgg25
  z22 := Tryd.sizeOf25
  v22 := Tryd.zeroValue25
  t25 := Tryd.underlying90
  a25 := Tryd.isAgg90
  z25 := Tryd.sizeOf90
  v25 := Tryd.zeroValue90 }
def Tryd.cloneRows_ren : Go.Shelf.Ren := ⟨fun | 41 => 49 | n => n, fun | 22 => 25 | 23 => 85 | 4 => 4 | n => n, fun | n => n⟩
theorem Tryd.cloneRows : Go.Proofs.SlLaysE0.n41 Tryd.prog Tryd.cloneRows_ren := {
  mixed := by kernel_rfl
  f41 := ⟨Tryd.f49.name, by decide, Tryd.func49.trans (congrArg some (by kernel_rfl))⟩
  t4 := Tryd.underlying4
  a4 := Tryd.isAgg4
  z4 := Tryd.sizeOf4
  v4 := Tryd.zeroValue4
  t22 := Tryd.underlying25
  a22 := Tryd.isAgg25
  z22 := Tryd.sizeOf25
  v22 := Tryd.zeroValue25 }
end Go.Proofs
