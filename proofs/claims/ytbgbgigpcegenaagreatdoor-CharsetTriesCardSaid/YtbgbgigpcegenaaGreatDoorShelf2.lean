/-
  DERIVED: THE SHELF's CONTRACTS AT THIS DUMP, IN PLAIN WORDS (tools/lay-plain.mjs out of 'TryzShelf2.lean', which tools/lay-shelf.mjs wrote): THE SAME DECLARATIONS UNDER THE SAME NAMES: 'import', 'namespace', 'open', 'def', 'theorem' AND NOTHING ELSE: no command of the shelf's: FOR A HAND-IN. Each laying: the table of numbers ('.._ren') and one theorem, a field a fact of the dump's own or the kernel's comparison; each contract: ONE APPLICATION.
-/
import Derived.Shelf.SlSortCmp.WholeK
import Derived.Shelf.SlicesQ.IndexFunc
import Derived.Shelf.SlicesE.Clone
import Derived.Test.YtbgbgigpcegenaaGreatDoorProg
namespace Go.Proofs
open Go.Shelf
def Tryz.sortRows_ren : Go.Shelf.Ren := ⟨fun | 6 => 170 | 15 => 192 | 14 => 191 | 28 => 205 | 29 => 206 | 20 => 197 | 21 => 198 | 22 => 199 | 23 => 200 | 24 => 201 | 25 => 202 | 26 => 203 | 27 => 204 | 46 => 209 | 47 => 210 | 48 => 211 | 49 => 212 | 50 => 213 | 57 => 214 | n => n, fun | 22 => 46 | 24 => 117 | 25 => 185 | 3 => 3 | 39 => 121 | 0 => 0 | 53 => 155 | 55 => 103 | 4 => 4 | 46 => 203 | 45 => 202 | 50 => 83 | 5 => 5 | 9 => 9 | 66 => 211 | 70 => 215 | 76 => 217 | 77 => 218 | n => n, fun | n => n⟩
theorem Tryz.sortRows : Go.Proofs.SlLaysF0.n6 Tryz.prog Tryz.sortRows_ren := {
  mixed := by kernel_rfl
  f6 := ⟨Tryz.f170.name, by decide, Tryz.func170.trans (congrArg some (by kernel_rfl))⟩
  f14 := ⟨Tryz.f191.name, by decide, Tryz.func191.trans (congrArg some (by kernel_rfl))⟩
  f15 := Tryz.func192.trans (congrArg some (by kernel_rfl))
  f20 := ⟨Tryz.f197.name, by decide, Tryz.func197.trans (congrArg some (by kernel_rfl))⟩
  f21 := ⟨Tryz.f198.name, by decide, Tryz.func198.trans (congrArg some (by kernel_rfl))⟩
  f22 := ⟨Tryz.f199.name, by decide, Tryz.func199.trans (congrArg some (by kernel_rfl))⟩
  f23 := ⟨Tryz.f200.name, by decide, Tryz.func200.trans (congrArg some (by kernel_rfl))⟩
  f24 := ⟨Tryz.f201.name, by decide, Tryz.func201.trans (congrArg some (by kernel_rfl))⟩
  f25 := ⟨Tryz.f202.name, by decide, Tryz.func202.trans (congrArg some (by kernel_rfl))⟩
  f26 := ⟨Tryz.f203.name, by decide, Tryz.func203.trans (congrArg some (by kernel_rfl))⟩
  f27 := ⟨Tryz.f204.name, by decide, Tryz.func204.trans (congrArg some (by kernel_rfl))⟩
  f28 := Tryz.func205.trans (congrArg some (by kernel_rfl))
  f29 := Tryz.func206.trans (congrArg some (by kernel_rfl))
  f46 := ⟨Tryz.f209.name, by decide, Tryz.func209.trans (congrArg some (by kernel_rfl))⟩
  f47 := Tryz.func210.trans (congrArg some (by kernel_rfl))
  f48 := Tryz.func211.trans (congrArg some (by kernel_rfl))
  f49 := ⟨Tryz.f212.name, by decide, Tryz.func212.trans (congrArg some (by kernel_rfl))⟩
  f50 := ⟨Tryz.f213.name, by decide, Tryz.func213.trans (congrArg some (by kernel_rfl))⟩
  f57 := ⟨Tryz.f214.name, by decide, Tryz.func214.trans (congrArg some (by kernel_rfl))⟩
  t0 := Tryz.underlying0
  a0 := Tryz.isAgg0
  z0 := Tryz.sizeOf0
  v0 := Tryz.zeroValue0
  t3 := Tryz.underlying3
  a3 := Tryz.isAgg3
  z3 := Tryz.sizeOf3
  v3 := Tryz.zeroValue3
  t4 := Tryz.underlying4
  a4 := Tryz.isAgg4
  z4 := Tryz.sizeOf4
  v4 := Tryz.zeroValue4
  t5 := Tryz.underlying5
  a5 := Tryz.isAgg5
  z5 := Tryz.sizeOf5
  v5 := Tryz.zeroValue5
  t9 := Tryz.underlying9
  a9 := Tryz.isAgg9
  z9 := Tryz.sizeOf9
  v9 := Tryz.zeroValue9
  t22 := Tryz.underlying46
  a22 := Tryz.isAgg46
  z22 := Tryz.sizeOf46
  v22 := Tryz.zeroValue46
  t25 := Tryz.underlying185
  a25 := Tryz.isAgg185
  z25 := Tryz.sizeOf185
  v25 := Tryz.zeroValue185
  t39 := Tryz.underlying121
  a39 := Tryz.isAgg121
  z39 := Tryz.sizeOf121
  v39 := Tryz.zeroValue121
  t45 := Tryz.underlying202
  a45 := Tryz.isAgg202
  z45 := Tryz.sizeOf202
  v45 := Tryz.zeroValue202
  t46 := Tryz.underlying203
  a46 := Tryz.isAgg203
  z46 := Tryz.sizeOf203
  v46 := Tryz.zeroValue203
  t50 := Tryz.underlying83
  a50 := Tryz.isAgg83
  z50 := Tryz.sizeOf83
  v50 := Tryz.zeroValue83
  t53 := Tryz.underlying155
  a53 := Tryz.isAgg155
  z53 := Tryz.sizeOf155
  v53 := Tryz.zeroValue155
  t55 := Tryz.underlying103
  a55 := Tryz.isAgg103
  z55 := Tryz.sizeOf103
  v55 := Tryz.zeroValue103
  t66 := Tryz.underlying211
  a66 := Tryz.isAgg211
  z66 := Tryz.sizeOf211
  v66 := Tryz.zeroValue211
  t70 := Tryz.underlying215
  a70 := Tryz.isAgg215
  z70 := Tryz.sizeOf215
  v70 := Tryz.zeroValue215
  t76 := Tryz.underlying217
  a76 := Tryz.isAgg217
  z76 := Tryz.sizeOf217
  v76 := Tryz.zeroValue217
  t77 := Tryz.underlying218
  a77 := Tryz.isAgg218
  z77 := Tryz.sizeOf218
  v77 := Tryz.zeroValue218 }
def Tryz.idxRows_ren : Go.Shelf.Ren := ⟨fun | 6 => 95 | n => n, fun | 22 => 46 | 23 => 117 | 25 => 124 | 3 => 3 | 0 => 0 | 4 => 4 | n => n, fun | n => n⟩
theorem Tryz.idxRows : Go.Proofs.SlLaysH0.n6 Tryz.prog Tryz.idxRows_ren := {
  mixed := by kernel_rfl
  f6 := ⟨Tryz.f95.name, by decide, Tryz.func95.trans (congrArg some (by kernel_rfl))⟩
  t0 := Tryz.underlying0
  a0 := Tryz.isAgg0
  z0 := Tryz.sizeOf0
  v0 := Tryz.zeroValue0
  t3 := Tryz.underlying3
  a3 := Tryz.isAgg3
  z3 := Tryz.sizeOf3
  v3 := Tryz.zeroValue3
  t4 := Tryz.underlying4
  a4 := Tryz.isAgg4
  z4 := Tryz.sizeOf4
  v4 := Tryz.zeroValue4
  t22 := Tryz.underlying46
  a22 := Tryz.isAgg46
  z22 := Tryz.sizeOf46
  v22 := Tryz.zeroValue46
  t25 := Tryz.underlying124
  a25 := Tryz.isAgg124
  z25 := Tryz.sizeOf124
  v25 := Tryz.zeroValue124 }
def Tryz.cloneRows_ren : Go.Shelf.Ren := ⟨fun | 41 => 129 | n => n, fun | 22 => 46 | 23 => 117 | 4 => 4 | n => n, fun | n => n⟩
theorem Tryz.cloneRows : Go.Proofs.SlLaysE0.n41 Tryz.prog Tryz.cloneRows_ren := {
  mixed := by kernel_rfl
  f41 := ⟨Tryz.f129.name, by decide, Tryz.func129.trans (congrArg some (by kernel_rfl))⟩
  t4 := Tryz.underlying4
  a4 := Tryz.isAgg4
  z4 := Tryz.sizeOf4
  v4 := Tryz.zeroValue4
  t22 := Tryz.underlying46
  a22 := Tryz.isAgg46
  z22 := Tryz.sizeOf46
  v22 := Tryz.zeroValue46 }
end Go.Proofs
