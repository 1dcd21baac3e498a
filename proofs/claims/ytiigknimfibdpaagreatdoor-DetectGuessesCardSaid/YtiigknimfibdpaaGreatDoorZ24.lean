/- Several texts in one. -/
import Derived.Test.YtiigknimfibdpaaGreatDoorZ19
import Derived.Test.YtiigknimfibdpaaGreatDoorTb2
import Derived.Test.YtiigknimfibdpaaGreatDoorZ18
import Derived.Test.YtiigknimfibdpaaGreatDoorBg0
import Derived.Test.YtiigknimfibdpaaGreatDoorOctA
import Derived.Test.YtiigknimfibdpaaGreatDoorPtA
import Derived.Deep.RegionHeld3
import Derived.Deep.DeepCutAuto
import Derived.Test.YtiigknimfibdpaaGreatDoorZ3
namespace Go.Proofs.YtiigknimfibdpaaGreatDoor.wa
open Go.RowKit Go.Lib
open Go.Proofs.YtiigknimfibdpaaGreatDoor.tb (RowP)
set_option linter.unusedVariables false
/-- Two bytes. -/
def two (c : Nat) : ByteArray := ⟨#[UInt8.ofNat (c / 256 % 256), UInt8.ofNat (c % 256)]⟩
/-- The k-th syllable in the rows, or of the others; 0: there is none. -/
def plI (k : Int) (b : Bool) : Int := if k < 0 then 0 else if (tot b : Int) ≤ k then 0 else ((kth k.toNat b : Nat) : Int)
theorem plI_none {k : Int} {b : Bool} (h : k < 0 ∨ (tot b : Int) ≤ k) : plI k b = 0 := by
  unfold plI
  rcases h with h | h
  · rw [if_pos h]
  · rw [if_neg (by omega), if_pos h]
theorem plI_some {k : Nat} {b : Bool} (h : k < tot b) : plI k b = ((kth k b : Nat) : Int) ∧ ((kth k b : Nat) : Int) ≠ 0 := by
  unfold plI
  rw [if_neg (by omega), if_neg (by omega), Int.toNat_natCast]
  obtain ⟨n, _, _, _, h4⟩ := kth_some h
  exact ⟨rfl, by rw [h4]; omega⟩
theorem plI_kth (k : Nat) (b : Bool) : plI k b = ((kth k b : Nat) : Int) := by
  by_cases h : k < tot b
  · exact (plI_some h).1
  · rw [plI_none (.inr (by omega)), kth_none (by omega)]; rfl
def plV (k : Int) (b : Bool) : Value := .tuple #[.int .i32 (plI k b), .bool (plI k b != 0)]
/-- What Rank answers. -/
def rkV (p : Int) : Value := if 44032 ≤ p ∧ p ≤ 55203 then .tuple #[.int .i64 ((rk (inB (p - 44032).toNat) (p - 44032).toNat : Nat) : Int), .bool (inB (p - 44032).toNat), .bool true] else .tuple #[.int .i64 0, .bool false, .bool false]
def sgV (S : Nat) : Value := .tuple #[.int .i32 (S : Int), .bool (decide (S ≠ 0))]
/-- What the walks ask of the landed functions: of all of them (the example), of Ranks and Places, of Signs and Bytes, of Rows. -/
structure Aw (K : World → Prop) : Prop where
  stay : ∀ w w', K w → Below w.heap.size w w' → K w'
  awS : ∀ w, K w → Calls Tryz.prog 98 #[.int .u8 176, .int .u8 162] w fun e w' => e = .returned (.tuple #[.int .i32 44033, .bool true]) ∧ Below w.heap.size w w'
  awB : ∀ w, K w → Calls Tryz.prog 99 #[.int .i32 55203] w fun e w' => e = .returned (.tuple #[.string ⟨#[198, 82]⟩, .bool true]) ∧ Below w.heap.size w w'
theorem sgV_pos {S : Nat} (h : S ≠ 0) : sgV S = .tuple #[.int .i32 (S : Int), .bool true] := by unfold sgV; rw [decide_eq_true h]
theorem awake_sign : sgW 176 162 = 44033 := by
  have h : inB 1 = true ∧ rk true 1 = 1 := by decide +kernel
  have h2 := kth_rank (n := 1) (by omega) h.1
  rw [h.2] at h2
  have h3 := sg_in (k := 1) (by omega)
  rw [h2] at h3
  exact h3
theorem awake_bytes : byW 55203 = some 50770 := by
  unfold byW
  rw [if_pos (by omega)]
  have h : inB 11171 = false := by decide +kernel
  have h2 : rk false 11171 = 8821 := by
    have h3 := tot_out
    rw [show 11172 = 11171 + 1 from rfl, rk_hit h] at h3
    omega
  unfold byS
  rw [show 55203 - 44032 = 11171 from rfl, h, h2]
  rfl
set_option maxRecDepth 100000 in
set_option maxHeartbeats 1000000 in
theorem Awake_any {K : World → Prop} (L : Aw K) (w : World) (hK : K w) : Calls Tryz.prog 63 #[] w fun e w' => e = .returned (.bool true) ∧ Below w.heap.size w w' := by
  have HS := Lib.hid L.awS
  have HB := Lib.hid L.awB
  have HL := Lib.hid L.stay
  have HK := Lib.hid hK
  clear hK L
  go_enter Tryz.func63, Tryz.ntmps63
  go_wp2_with (first | (go_at_call 98; refine (HS.out _ HK.out).mono ?_; rintro e2 w2 ⟨rfl, hb2⟩; have HB2 := Lib.hid hb2; have K2 := Lib.hid (HL.out _ _ HK.out hb2); clear hb2) | (go_at_call 99; refine (HB.out _ K2.out).mono ?_; rintro e3 w3 ⟨rfl, hb3⟩; have HB3 := Lib.hid (HB2.out.trans (hb3.mono HB2.out.size)); clear hb3))
  go_ret
  exact ⟨rfl, HB3.out⟩
end Go.Proofs.YtiigknimfibdpaaGreatDoor.wa
namespace Go.Proofs.YtiigknimfibdpaaGreatDoor.tb
open Go.RowKit Go.Lib
set_option linter.unusedVariables false
theorem size_nil {s : ByteArray} (h : s.data.toList = []) : s.size = 0 := by
  have e : s.data.toList.length = s.size := by rw [Array.length_toList]; rfl
  rw [h] at e; exact e.symm
/-- The pairs of a piece. -/
def piece (f t c : Int) (s : ByteArray) : Option (List (Int × Int)) :=
  if s.size = 0 then
    (if f < 0 ∨ c < 1 ∨ 1048576 < c ∨ 1048576 - c < f ∨ validRune t = false then none
     else if validRune (t + c - 1) = false ∨ (t < 55296 ∧ 57343 < t + c - 1) then none
     else some (sqp f t c.toNat))
  else (if (pt.scan s).2.isSome = true ∨ f < 0 ∨ 1048576 - ((pt.zsOf s).length : Int) < f then none else some (lsp f (pt.zsOf s)))
end Go.Proofs.YtiigknimfibdpaaGreatDoor.tb
namespace Go.Proofs.YtiigknimfibdpaaGreatDoor.tb
open Go.RowKit Go.Lib
set_option linter.unusedVariables false
/-- A piece. -/
structure Pce where
  f : Int
  t : Int
  c : Int
  s : ByteArray
/-- A piece as Go may hold it. -/
structure Pce.ok (p : Pce) : Prop where
  f0 : -9223372036854775808 ≤ p.f
  f1 : p.f ≤ 9223372036854775807
  t0 : -2147483648 ≤ p.t
  t1 : p.t ≤ 2147483647
  c0 : -9223372036854775808 ≤ p.c
  c1 : p.c ≤ 9223372036854775807
  s1 : p.s.size ≤ 9223372036854775807
def p0 : Pce := ⟨0, 0, 0, ⟨#[]⟩⟩
/-- The cells of a piece. -/
structure CellsC (w : World) (b : Addr) (p : Pce) : Prop where
  k0 : w.cell? b = some (.int .i64 p.f)
  k1 : w.cell? ⟨b.block, b.off + 1, none⟩ = some (.int .i32 p.t)
  k2 : w.cell? ⟨b.block, b.off + 2, none⟩ = some (.int .i64 p.c)
  k3 : w.cell? ⟨b.block, b.off + 3, none⟩ = some (.string p.s)
theorem CellsC.below {w w' : World} {b : Addr} {p : Pce} (h : CellsC w b p) {B : Nat} (hb : Below B w w') (hB : w.heap.size ≤ B) : CellsC w' b p := by
  have hl := World.block_lt_of_cell? w _ h.k0
  have H : ∀ o, w'.cell? ⟨b.block, o, none⟩ = w.cell? ⟨b.block, o, none⟩ := fun o => hb.cell (p := ⟨b.block, o, none⟩) (by show b.block < B; omega)
  exact ⟨(hb.cell (by omega)).trans h.k0, (H _).trans h.k1, (H _).trans h.k2, (H _).trans h.k3⟩
/-- A slice of pieces, none or a row. -/
def RowC (w : World) (A : Option Addr) (n c : Nat) (l : List Pce) : Prop :=
  l.length = n ∧ (∀ p ∈ l, p.ok) ∧ ((A = none ∧ n = 0 ∧ c = 0) ∨ ∃ a, A = some a ∧ n ≤ c ∧ c ≤ maxLen ∧ ∀ i, i < n → CellsC w (a.add (i * 4)) (l.getD i p0))
theorem RowC.below {w w' : World} {A : Option Addr} {n c : Nat} {l : List Pce} (h : RowC w A n c l) (hb : Below w.heap.size w w') : RowC w' A n c l := by
  obtain ⟨h1, h2, h | ⟨a, h3, h4, h5, h6⟩⟩ := h
  · exact ⟨h1, h2, .inl h⟩
  · exact ⟨h1, h2, .inr ⟨a, h3, h4, h5, fun i hi => (h6 i hi).below hb (Nat.le_refl _)⟩⟩
theorem RowC.at {w : World} {A : Option Addr} {n c : Nat} {l : List Pce} (h : RowC w A n c l) (i : Nat) (hi : i < n) : ∃ a, A = some a ∧ n ≤ c ∧ c ≤ maxLen ∧ CellsC w (a.add (i * 4)) (l.getD i p0) ∧ (l.getD i p0).ok ∧ l.take (i + 1) = l.take i ++ [l.getD i p0] ∧ l.drop i = l.getD i p0 :: l.drop (i + 1) := by
  obtain ⟨h1, h2, ⟨_, h3, _⟩ | ⟨a, h3, h4, h5, h6⟩⟩ := h
  · omega
  · have hil : i < l.length := by omega
    refine ⟨a, h3, h4, h5, h6 i hi, h2 _ (by simp [List.getD, List.getElem?_eq_getElem hil]), ?_, ?_⟩
    · rw [List.take_add_one, List.getElem?_eq_getElem hil]; simp [List.getD, List.getElem?_eq_getElem hil]
    · rw [List.drop_eq_getElem_cons hil]; simp [List.getD, List.getElem?_eq_getElem hil]
end Go.Proofs.YtiigknimfibdpaaGreatDoor.tb
namespace Go.Proofs.YtiigknimfibdpaaGreatDoor.tb
open Go.RowKit Go.Lib
set_option linter.unusedVariables false
theorem seq_any (f t c : Int) (w : World) : Calls Tryz.prog 112 #[.int .i64 f, .int .i32 t, .int .i64 c] w fun e w' => e = .returned (.agg #[.int .i64 f, .int .i32 t, .int .i64 c, .string ⟨#[]⟩]) ∧ Below w.heap.size w w' := by
  go_enter Tryz.func112, Tryz.ntmps112
  go_wp2
  refine bodyPost_ret (v := .agg #[.int .i64 f, .int .i32 t, .int .i64 c, .string ⟨#[]⟩]) (by simp [results, Tryz.results112, go_sem]) rfl ⟨rfl, ?_⟩
  repeat (first | (with_reducible exact Below.refl _ _) | (with_reducible refine Below.setCell ?_ (by simp) _) | (with_reducible refine Below.alloc ?_ (by simp) _))
theorem list_any (f : Int) (s : ByteArray) (w : World) : Calls Tryz.prog 128 #[.int .i64 f, .string s] w fun e w' => e = .returned (.agg #[.int .i64 f, .int .i32 0, .int .i64 0, .string s]) ∧ Below w.heap.size w w' := by
  go_enter Tryz.func128, Tryz.ntmps128
  go_wp2
  refine bodyPost_ret (v := .agg #[.int .i64 f, .int .i32 0, .int .i64 0, .string s]) (by simp [results, Tryz.results128, go_sem]) rfl ⟨rfl, ?_⟩
  repeat (first | (with_reducible exact Below.refl _ _) | (with_reducible refine Below.setCell ?_ (by simp) _) | (with_reducible refine Below.alloc ?_ (by simp) _))
def pcell (p : Pce) : List Value := [.int .i64 p.f, .int .i32 p.t, .int .i64 p.c, .string p.s]
theorem pcells_at : ∀ (l : List Pce) (i : Nat), i < l.length → (l.flatMap pcell)[i * 4]? = some (.int .i64 (l.getD i p0).f) ∧ (l.flatMap pcell)[i * 4 + 1]? = some (.int .i32 (l.getD i p0).t) ∧ (l.flatMap pcell)[i * 4 + 2]? = some (.int .i64 (l.getD i p0).c) ∧ (l.flatMap pcell)[i * 4 + 3]? = some (.string (l.getD i p0).s)
  | [], i, h => by simp at h
  | r :: l, i, h => by
    have e : (r :: l).flatMap pcell = .int .i64 r.f :: .int .i32 r.t :: .int .i64 r.c :: .string r.s :: l.flatMap pcell := rfl
    rw [e]
    cases i with
    | zero => exact ⟨rfl, rfl, rfl, rfl⟩
    | succ i =>
      have := pcells_at l i (by simpa using h)
      rw [show (i + 1) * 4 = i * 4 + 1 + 1 + 1 + 1 by omega]
      simpa using this
theorem rowC_new (w : World) (l : List Pce) (hok : ∀ p ∈ l, p.ok) (hl : l.length ≤ 1000) (t : TypeId) : RowC (w.alloc (.cells (l.flatMap pcell).toArray t)) (some ⟨w.heap.size, 0, none⟩) l.length l.length l := by
  refine ⟨rfl, hok, .inr ⟨_, rfl, Nat.le_refl _, by unfold maxLen; omega, fun i hi => ?_⟩⟩
  obtain ⟨a, b, c, d⟩ := pcells_at l i hi
  have e : (⟨w.heap.size, 0, none⟩ : Addr).add (i * 4) = ⟨w.heap.size, i * 4, none⟩ := by rw [Addr.add_lit, Nat.zero_add]
  rw [e]
  refine ⟨?_, ?_, ?_, ?_⟩
  · rw [World.cell?_alloc_mark]; simpa using a
  · show (w.alloc _).cell? ⟨w.heap.size, i * 4 + 1, none⟩ = _; rw [World.cell?_alloc_mark]; simpa using b
  · show (w.alloc _).cell? ⟨w.heap.size, i * 4 + 2, none⟩ = _; rw [World.cell?_alloc_mark]; simpa using c
  · show (w.alloc _).cell? ⟨w.heap.size, i * 4 + 3, none⟩ = _; rw [World.cell?_alloc_mark]; simpa using d
end Go.Proofs.YtiigknimfibdpaaGreatDoor.tb
namespace Go.Proofs.YtiigknimfibdpaaGreatDoor.wr
open Go Go.Lib
open Go.Proofs.YtiigknimfibdpaaGreatDoor.tb (Pce)
set_option linter.unusedVariables false
set_option maxRecDepth 1000000
def t1 : ByteArray := ⟨#[227, 128, 128, 227, 128, 129, 227, 128, 130, 194, 183, 226, 128, 165, 226, 128, 166, 194, 168, 227, 128, 131, 194, 173, 226, 128, 149, 226, 136, 165, 239, 188, 188, 226, 136, 188, 226, 128, 152, 226, 128, 153, 226, 128, 156, 226, 128, 157, 227, 128, 148, 227, 128, 149, 227, 128, 136, 227, 128, 137, 227, 128, 138, 227, 128, 139, 227, 128, 140, 227, 128, 141, 227, 128, 142, 227, 128, 143, 227, 128, 144, 227, 128, 145, 194, 177, 195, 151, 195, 183, 226, 137, 160, 226, 137, 164, 226, 137, 165, 226, 136, 158, 226, 136, 180, 194, 176, 226, 128, 178, 226, 128, 179, 226, 132, 131, 226, 132, 171, 239, 191, 160, 239, 191, 161, 239, 191, 165, 226, 153, 130, 226, 153, 128, 226, 136, 160, 226, 138, 165, 226, 140, 146, 226, 136, 130, 226, 136, 135, 226, 137, 161, 226, 137, 146, 194, 167, 226, 128, 187, 226, 152, 134, 226, 152, 133, 226, 151, 139, 226, 151, 143, 226, 151, 142, 226, 151, 135, 226, 151, 134, 226, 150, 161, 226, 150, 160, 226, 150, 179, 226, 150, 178, 226, 150, 189, 226, 150, 188, 226, 134, 146, 226, 134, 144, 226, 134, 145, 226, 134, 147, 226, 134, 148, 227, 128, 147, 226, 137, 170, 226, 137, 171, 226, 136, 154, 226, 136, 189, 226, 136, 157, 226, 136, 181, 226, 136, 171, 226, 136, 172, 226, 136, 136, 226, 136, 139, 226, 138, 134, 226, 138, 135, 226, 138, 130, 226, 138, 131, 226, 136, 170, 226, 136, 169, 226, 136, 167, 226, 136, 168, 239, 191, 162]⟩
def t2 : ByteArray := ⟨#[226, 135, 146, 226, 135, 148, 226, 136, 128, 226, 136, 131, 194, 180, 239, 189, 158, 203, 135, 203, 152, 203, 157, 203, 154, 203, 153, 194, 184, 203, 155, 194, 161, 194, 191, 203, 144, 226, 136, 174, 226, 136, 145, 226, 136, 143, 194, 164, 226, 132, 137, 226, 128, 176, 226, 151, 129, 226, 151, 128, 226, 150, 183, 226, 150, 182, 226, 153, 164, 226, 153, 160, 226, 153, 161, 226, 153, 165, 226, 153, 167, 226, 153, 163, 226, 138, 153, 226, 151, 136, 226, 150, 163, 226, 151, 144, 226, 151, 145, 226, 150, 146, 226, 150, 164, 226, 150, 165, 226, 150, 168, 226, 150, 167, 226, 150, 166, 226, 150, 169, 226, 153, 168, 226, 152, 143, 226, 152, 142, 226, 152, 156, 226, 152, 158, 194, 182, 226, 128, 160, 226, 128, 161, 226, 134, 149, 226, 134, 151, 226, 134, 153, 226, 134, 150, 226, 134, 152, 226, 153, 173, 226, 153, 169, 226, 153, 170, 226, 153, 172, 227, 137, 191, 227, 136, 156, 226, 132, 150, 227, 143, 135, 226, 132, 162, 227, 143, 130, 227, 143, 152, 226, 132, 161, 226, 130, 172, 194, 174]⟩
def t3 : ByteArray := ⟨#[226, 148, 128, 226, 148, 130, 226, 148, 140, 226, 148, 144, 226, 148, 152, 226, 148, 148, 226, 148, 156, 226, 148, 172, 226, 148, 164, 226, 148, 180, 226, 148, 188, 226, 148, 129, 226, 148, 131, 226, 148, 143, 226, 148, 147, 226, 148, 155, 226, 148, 151, 226, 148, 163, 226, 148, 179, 226, 148, 171, 226, 148, 187, 226, 149, 139, 226, 148, 160, 226, 148, 175, 226, 148, 168, 226, 148, 183, 226, 148, 191, 226, 148, 157, 226, 148, 176, 226, 148, 165, 226, 148, 184, 226, 149, 130, 226, 148, 146, 226, 148, 145, 226, 148, 154, 226, 148, 153, 226, 148, 150, 226, 148, 149, 226, 148, 142, 226, 148, 141, 226, 148, 158, 226, 148, 159, 226, 148, 161, 226, 148, 162, 226, 148, 166, 226, 148, 167, 226, 148, 169, 226, 148, 170, 226, 148, 173, 226, 148, 174, 226, 148, 177, 226, 148, 178, 226, 148, 181, 226, 148, 182, 226, 148, 185, 226, 148, 186, 226, 148, 189, 226, 148, 190, 226, 149, 128, 226, 149, 129, 226, 149, 131, 226, 149, 132, 226, 149, 133, 226, 149, 134, 226, 149, 135, 226, 149, 136, 226, 149, 137, 226, 149, 138]⟩
/-- The rows that follow no rule. -/
def lsP : List Pce := [⟨41377, 0, 0, t1⟩, ⟨41633, 0, 0, t2⟩, ⟨42657, 0, 0, t3⟩]
/-- The rows of numbers one behind the other. -/
def spP : List Pce := [⟨41889, 65281, 59, ⟨#[]⟩⟩, ⟨41948, 65510, 1, ⟨#[]⟩⟩, ⟨41949, 65341, 33, ⟨#[]⟩⟩, ⟨41982, 65507, 1, ⟨#[]⟩⟩, ⟨42145, 12593, 94, ⟨#[]⟩⟩, ⟨42401, 8560, 10, ⟨#[]⟩⟩, ⟨42416, 8544, 10, ⟨#[]⟩⟩, ⟨42433, 913, 17, ⟨#[]⟩⟩, ⟨42450, 931, 7, ⟨#[]⟩⟩, ⟨42465, 945, 17, ⟨#[]⟩⟩, ⟨42482, 963, 7, ⟨#[]⟩⟩, ⟨43681, 12353, 83, ⟨#[]⟩⟩, ⟨43937, 12449, 86, ⟨#[]⟩⟩, ⟨44193, 1040, 6, ⟨#[]⟩⟩, ⟨44199, 1025, 1, ⟨#[]⟩⟩, ⟨44200, 1046, 26, ⟨#[]⟩⟩, ⟨44241, 1072, 6, ⟨#[]⟩⟩, ⟨44247, 1105, 1, ⟨#[]⟩⟩, ⟨44248, 1078, 26, ⟨#[]⟩⟩]
end Go.Proofs.YtiigknimfibdpaaGreatDoor.wr
namespace Go.Proofs.YtiigknimfibdpaaGreatDoor.wr
open Go.RowKit Go.Lib
open Go.Proofs.YtiigknimfibdpaaGreatDoor.tb
set_option linter.unusedVariables false
theorem ls_ok : ∀ p ∈ lsP, p.ok := by
  intro p hp
  simp only [lsP, List.mem_cons, List.mem_nil_iff, or_false] at hp
  rcases hp with rfl | rfl | rfl <;> exact ⟨by decide, by decide, by decide, by decide, by decide, by decide, by decide +kernel⟩
theorem ls_small : ∀ p ∈ lsP, p.s.size ≤ 4000000 := by
  intro p hp
  simp only [lsP, List.mem_cons, List.mem_nil_iff, or_false] at hp
  rcases hp with rfl | rfl | rfl <;> decide +kernel
theorem sp_all : (spP.all fun p => decide (-9223372036854775808 ≤ p.f) && decide (p.f ≤ 9223372036854775807) && decide (-2147483648 ≤ p.t) && decide (p.t ≤ 2147483647) && decide (-9223372036854775808 ≤ p.c) && decide (p.c ≤ 9223372036854775807) && decide (p.s.size ≤ 4000000)) = true := by decide +kernel
theorem sp_ok : ∀ p ∈ spP, p.ok ∧ p.s.size ≤ 4000000 := by
  intro p hp
  have h := List.all_eq_true.1 sp_all p hp
  simp only [Bool.and_eq_true, decide_eq_true_eq] at h
  obtain ⟨⟨⟨⟨⟨⟨h1, h2⟩, h3⟩, h4⟩, h5⟩, h6⟩, h7⟩ := h
  exact ⟨⟨h1, h2, h3, h4, h5, h6, by omega⟩, h7⟩
/-- What lists and spans answer. -/
def RowsOf (l : List Pce) (n : Nat) (w : World) (e : Ending) (w' : World) : Prop := ∃ g, e = .returned (.slice (some ⟨g, 0, none⟩) n n) ∧ RowC w' (some ⟨g, 0, none⟩) n n l ∧ Below w.heap.size w w'
set_option maxRecDepth 1000000 in
set_option maxHeartbeats 4000000 in
theorem lists_any (w : World) : Calls Tryz.prog 178 #[] w (RowsOf lsP 3 w) := by
  have HB := Lib.hid (Below.refl w.heap.size w)
  have HL1 : Hid (∀ W, Calls Tryz.prog 128 #[.int .i64 41377, .string t1] W fun e w' => e = .returned (.agg #[.int .i64 41377, .int .i32 0, .int .i64 0, .string t1]) ∧ Below W.heap.size W w') := Lib.hid (fun W => list_any _ _ _)
  have HL2 : Hid (∀ W, Calls Tryz.prog 128 #[.int .i64 41633, .string t2] W fun e w' => e = .returned (.agg #[.int .i64 41633, .int .i32 0, .int .i64 0, .string t2]) ∧ Below W.heap.size W w') := Lib.hid (fun W => list_any _ _ _)
  have HL3 : Hid (∀ W, Calls Tryz.prog 128 #[.int .i64 42657, .string t3] W fun e w' => e = .returned (.agg #[.int .i64 42657, .int .i32 0, .int .i64 0, .string t3]) ∧ Below W.heap.size W w') := Lib.hid (fun W => list_any _ _ _)
  have HR : Hid (∀ W, Below w.heap.size w W → RowsOf lsP 3 w (.returned (.slice (some ⟨W.heap.size, 0, none⟩) 3 3)) (W.alloc (.cells #[.int .i64 41377, .int .i32 0, .int .i64 0, .string t1, .int .i64 41633, .int .i32 0, .int .i64 0, .string t2, .int .i64 42657, .int .i32 0, .int .i64 0, .string t3] 139))) := Lib.hid (fun W hb => ⟨_, rfl, rowC_new W lsP ls_ok (by decide) 139, hb.alloc hb.size _⟩)
  go_enter Tryz.func178, Tryz.ntmps178
  go_wp2_with (first
    | (go_at_call 128; refine (HL3.out _).mono ?_; rintro e1 w1 ⟨rfl, hb1⟩; have HB := Lib.hid (HB.out.trans (hb1.mono HB.out.size)); clear hb1)
    | (go_at_call 128; refine (HL2.out _).mono ?_; rintro e1 w1 ⟨rfl, hb1⟩; have HB := Lib.hid (HB.out.trans (hb1.mono HB.out.size)); clear hb1)
    | (go_at_call 128; refine (HL1.out _).mono ?_; rintro e1 w1 ⟨rfl, hb1⟩; have HB := Lib.hid (HB.out.trans (hb1.mono HB.out.size)); clear hb1))
  go_ret
  exact HR.out _ HB.out
set_option maxRecDepth 1000000 in
set_option maxHeartbeats 4000000 in
theorem spans_any (w : World) : Calls Tryz.prog 180 #[] w (RowsOf spP 19 w) := by
  have HB := Lib.hid (Below.refl w.heap.size w)
  have HR : Hid (∀ W, Below w.heap.size w W → RowsOf spP 19 w (.returned (.slice (some ⟨W.heap.size, 0, none⟩) 19 19)) (W.alloc (.cells (spP.flatMap pcell).toArray 139))) := Lib.hid (fun W hb => ⟨_, rfl, rowC_new W spP (fun p hp => (sp_ok p hp).1) (by decide) 139, hb.alloc hb.size _⟩)
  go_enter Tryz.func180, Tryz.ntmps180
  go_wp2_with (go_at_call 112; refine (seq_any _ _ _ _).mono ?_; rintro e1 w1 ⟨rfl, hb1⟩; have HB := Lib.hid (HB.out.trans (hb1.mono HB.out.size)); clear hb1)
  go_ret
  exact HR.out _ HB.out
end Go.Proofs.YtiigknimfibdpaaGreatDoor.wr
namespace Go.Proofs.YtiigknimfibdpaaGreatDoor.bp
open Go Go.Lib
open Go.Proofs.YtiigknimfibdpaaGreatDoor.tb (Pce)
open Go.Proofs.YtiigknimfibdpaaGreatDoor.bg
set_option linter.unusedVariables false
set_option maxRecDepth 1000000
def r1 : ByteArray := ⟨#[196, 128, 195, 129, 199, 141, 195, 128, 196, 146, 195, 137, 196, 154, 195, 136, 197, 140, 195, 147, 199, 145, 195, 146]⟩
def r2 : ByteArray := ⟨#[225, 186, 190]⟩
def r3 : ByteArray := ⟨#[225, 187, 128, 195, 138, 196, 129, 195, 161, 199, 142, 195, 160, 201, 145, 196, 147, 195, 169, 196, 155, 195, 168, 196, 171, 195, 173, 199, 144, 195, 172, 197, 141]⟩
def r4 : ByteArray := ⟨#[195, 179, 199, 146, 195, 178, 197, 171, 195, 186, 199, 148, 195, 185, 199, 150, 199, 152, 199, 154]⟩
def r5 : ByteArray := ⟨#[199, 156, 195, 188]⟩
def r6 : ByteArray := ⟨#[225, 186, 191]⟩
def r7 : ByteArray := ⟨#[225, 187, 129, 195, 170, 201, 161]⟩
def m1 : ByteArray := ⟨#[227, 128, 128, 239, 188, 140, 227, 128, 129, 227, 128, 130, 239, 188, 142, 226, 128, 162, 239, 188, 155, 239, 188, 154, 239, 188, 159, 239, 188, 129, 239, 184, 176, 226, 128, 166, 226, 128, 165, 239, 185, 144, 239, 189, 164, 239, 185, 146, 194, 183, 239, 185, 148, 239, 185, 149, 239, 185, 150, 239, 185, 151, 239, 189, 156, 226, 128, 147, 239, 184, 177, 226, 128, 148, 239, 184, 179, 226, 149, 180, 239, 184, 180, 239, 185, 143, 239, 188, 136, 239, 188, 137, 239, 184, 181, 239, 184, 182, 239, 189, 155, 239, 189, 157, 239, 184, 183, 239, 184, 184, 227, 128, 148, 227, 128, 149, 239, 184, 185, 239, 184, 186, 227, 128, 144, 227, 128, 145, 239, 184, 187, 239, 184, 188, 227, 128, 138, 227, 128, 139, 239, 184, 189, 239, 184, 190, 227, 128, 136, 227, 128, 137, 239, 184, 191, 239, 185, 128, 227, 128, 140, 227, 128, 141, 239, 185, 129, 239, 185, 130, 227, 128, 142, 227, 128, 143, 239, 185, 131, 239, 185, 132, 239, 185, 153, 239, 185, 154, 239, 185, 155, 239, 185, 156, 239, 185, 157, 239, 185, 158, 226, 128, 152, 226, 128, 153, 226, 128, 156, 226, 128, 157, 227, 128, 157, 227, 128, 158, 226, 128, 181, 226, 128, 178, 239, 188, 131, 239, 188, 134, 239, 188, 138, 226, 128, 187, 194, 167, 227, 128, 131, 226, 151, 139, 226, 151, 143, 226, 150, 179, 226, 150, 178, 226, 151, 142, 226, 152, 134, 226, 152, 133, 226, 151, 135, 226, 151, 134, 226, 150, 161, 226, 150, 160, 226, 150, 189, 226, 150, 188, 227, 138, 163, 226, 132, 133, 226, 128, 190, 239, 191, 163, 239, 188, 191, 203, 141, 239, 185, 137, 239, 185, 138, 239, 185, 141, 239, 185, 142, 239, 185, 139, 239, 185, 140, 239, 185, 159, 239, 185, 160, 239, 185, 161, 239, 188, 139, 239, 188, 141, 195, 151, 195, 183, 194, 177, 226, 136, 154, 239, 188, 156, 239, 188, 158, 239, 188, 157, 226, 137, 166, 226, 137, 167, 226, 137, 160, 226, 136, 158, 226, 137, 146, 226, 137, 161, 239, 185, 162, 239, 185, 163, 239, 185, 164, 239, 185, 165, 239, 185, 166, 226, 136, 188, 226, 136, 169, 226, 136, 170, 226, 138, 165, 226, 136, 160, 226, 136, 159, 226, 138, 191, 227, 143, 146, 227, 143, 145, 226, 136, 171, 226, 136, 174, 226, 136, 181, 226, 136, 180, 226, 153, 128, 226, 153, 130, 226, 153, 129, 226, 152, 137, 226, 134, 145, 226, 134, 147, 226, 134, 144, 226, 134, 146, 226, 134, 150, 226, 134, 151, 226, 134, 153, 226, 134, 152, 226, 136, 165, 226, 136, 163, 239, 188, 143]⟩
def m3 : ByteArray := ⟨#[239, 189, 151, 239, 189, 152, 239, 189, 153, 239, 189, 154, 206, 145, 206, 146, 206, 147, 206, 148, 206, 149, 206, 150, 206, 151, 206, 152, 206, 153, 206, 154, 206, 155, 206, 156, 206, 157, 206, 158, 206, 159, 206, 160, 206, 161, 206, 163, 206, 164, 206, 165, 206, 166, 206, 167, 206, 168, 206, 169, 206, 177, 206, 178, 206, 179, 206, 180, 206, 181, 206, 182, 206, 183, 206, 184, 206, 185, 206, 186, 206, 187, 206, 188, 206, 189, 206, 190, 206, 191, 207, 128, 207, 129, 207, 131, 207, 132, 207, 133, 207, 134, 207, 135, 207, 136, 207, 137, 227, 132, 133, 227, 132, 134, 227, 132, 135, 227, 132, 136, 227, 132, 137, 227, 132, 138, 227, 132, 139, 227, 132, 140, 227, 132, 141, 227, 132, 142, 227, 132, 143, 227, 132, 144, 227, 132, 145, 227, 132, 146, 227, 132, 147, 227, 132, 148, 227, 132, 149, 227, 132, 150, 227, 132, 151, 227, 132, 152, 227, 132, 153, 227, 132, 154, 227, 132, 155, 227, 132, 156, 227, 132, 157, 227, 132, 158, 227, 132, 159, 227, 132, 160, 227, 132, 161, 227, 132, 162, 227, 132, 163, 227, 132, 164, 227, 132, 165, 227, 132, 166, 227, 132, 167, 227, 132, 168, 227, 132, 169, 203, 153, 203, 137, 203, 138, 203, 135, 203, 139]⟩
def m4 : ByteArray := ⟨#[228, 184, 128, 228, 185, 153, 228, 184, 129, 228, 184, 131, 228, 185, 131, 228, 185, 157, 228, 186, 134, 228, 186, 140, 228, 186, 186, 229, 132, 191, 229, 133, 165, 229, 133, 171, 229, 135, 160, 229, 136, 128, 229, 136, 129, 229, 138, 155, 229, 140, 149, 229, 141, 129, 229, 141, 156, 229, 143, 136, 228, 184, 137, 228, 184, 139, 228, 184, 136, 228, 184, 138, 228, 184, 171, 228, 184, 184, 229, 135, 161, 228, 185, 133, 228, 185, 136, 228, 185, 159, 228, 185, 158, 228, 186, 142, 228, 186, 161, 229, 133, 128, 229, 136, 131, 229, 139, 186, 229, 141, 131, 229, 143, 137, 229, 143, 163, 229, 156, 159, 229, 163, 171, 229, 164, 149, 229, 164, 167, 229, 165, 179, 229, 173, 144, 229, 173, 145, 229, 173, 147, 229, 175, 184, 229, 176, 143, 229, 176, 162, 229, 176, 184, 229, 177, 177, 229, 183, 157, 229, 183, 165, 229, 183, 177, 229, 183, 178, 229, 183, 179, 229, 183, 190, 229, 185, 178, 229, 187, 190, 229, 188, 139, 229, 188, 147, 230, 137, 141, 228, 184, 145, 228, 184, 144, 228, 184, 141, 228, 184, 173, 228, 184, 176, 228, 184, 185, 228, 185, 139, 229, 176, 185, 228, 186, 136, 228, 186, 145, 228, 186, 149, 228, 186, 146, 228, 186, 148, 228, 186, 162, 228, 187, 129, 228, 187, 128, 228, 187, 131, 228, 187, 134, 228, 187, 135, 228, 187, 141, 228, 187, 138, 228, 187, 139, 228, 187, 132, 229, 133, 131, 229, 133, 129, 229, 133, 167, 229, 133, 173, 229, 133, 174, 229, 133, 172, 229, 134, 151, 229, 135, 182, 229, 136, 134, 229, 136, 135, 229, 136, 136, 229, 139, 187, 229, 139, 190, 229, 139, 191, 229, 140, 150, 229, 140, 185, 229, 141, 136, 229, 141, 135, 229, 141, 133, 229, 141, 158, 229, 142, 132, 229, 143, 139, 229, 143, 138, 229, 143, 141, 229, 163, 172, 229, 164, 169, 229, 164, 171, 229, 164, 170, 229, 164, 173, 229, 173, 148, 229, 176, 145, 229, 176, 164, 229, 176, 186, 229, 177, 175, 229, 183, 180, 229, 185, 187, 229, 187, 191, 229, 188, 148, 229, 188, 149, 229, 191, 131, 230, 136, 136, 230, 136, 182, 230, 137, 139, 230, 137, 142, 230, 148, 175, 230, 150, 135, 230, 150, 151, 230, 150, 164, 230, 150, 185, 230, 151, 165, 230, 155, 176, 230, 156, 136, 230, 156, 168, 230, 172, 160, 230, 173, 162, 230, 173, 185, 230, 175, 139, 230, 175, 148, 230, 175, 155, 230, 176, 143, 230, 176, 180, 231, 129, 171, 231, 136, 170, 231, 136, 182, 231, 136, 187, 231, 137, 135, 231, 137, 153, 231, 137, 155, 231, 138, 172, 231, 142, 139, 228, 184, 153]⟩
def m5 : ByteArray := ⟨#[228, 184, 150, 228, 184, 149, 228, 184, 148, 228, 184, 152, 228, 184, 187, 228, 185, 141, 228, 185, 143, 228, 185, 142, 228, 187, 165, 228, 187, 152, 228, 187, 148, 228, 187, 149, 228, 187, 150, 228, 187, 151, 228, 187, 163, 228, 187, 164, 228, 187, 153, 228, 187, 158, 229, 133, 133, 229, 133, 132, 229, 134, 137, 229, 134, 138, 229, 134, 172, 229, 135, 185, 229, 135, 186, 229, 135, 184, 229, 136, 138, 229, 138, 160, 229, 138, 159, 229, 140, 133, 229, 140, 134, 229, 140, 151, 229, 140, 157, 228, 187, 159, 229, 141, 138, 229, 141, 137, 229, 141, 161, 229, 141, 160, 229, 141, 175, 229, 141, 174, 229, 142, 187, 229, 143, 175, 229, 143, 164, 229, 143, 179, 229, 143, 172, 229, 143, 174, 229, 143, 169, 229, 143, 168, 229, 143, 188, 229, 143, 184, 229, 143, 181, 229, 143, 171, 229, 143, 166, 229, 143, 170, 229, 143, 178, 229, 143, 177, 229, 143, 176, 229, 143, 165, 229, 143, 173, 229, 143, 187, 229, 155, 155, 229, 155, 154, 229, 164, 150, 229, 164, 174, 229, 164, 177, 229, 165, 180, 229, 165, 182, 229, 173, 149, 229, 174, 131, 229, 176, 188, 229, 183, 168, 229, 183, 167, 229, 183, 166, 229, 184, 130, 229, 184, 131, 229, 185, 179, 229, 185, 188, 229, 188, 129, 229, 188, 152, 229, 188, 151, 229, 191, 133, 230, 136, 138, 230, 137, 147, 230, 137, 148, 230, 137, 146, 230, 137, 145, 230, 150, 165, 230, 151, 166, 230, 156, 174, 230, 156, 172, 230, 156, 170, 230, 156, 171, 230, 156, 173, 230, 173, 163, 230, 175, 141, 230, 176, 145, 230, 176, 144, 230, 176, 184, 230, 177, 129, 230, 177, 128, 230, 176, 190, 231, 138, 175, 231, 142, 132, 231, 142, 137, 231, 147, 156, 231, 147, 166, 231, 148, 152, 231, 148, 159, 231, 148, 168, 231, 148, 169, 231, 148, 176, 231, 148, 177, 231, 148, 178, 231, 148, 179, 231, 150, 139, 231, 153, 189, 231, 154, 174, 231, 154, 191, 231, 155, 174, 231, 159, 155, 231, 159, 162, 231, 159, 179, 231, 164, 186, 231, 166, 190, 231, 169, 180, 231, 171, 139, 228, 184, 158, 228, 184, 159, 228, 185, 146, 228, 185, 147, 228, 185, 169, 228, 186, 153, 228, 186, 164, 228, 186, 166, 228, 186, 165, 228, 187, 191, 228, 188, 137, 228, 188, 153, 228, 188, 138, 228, 188, 149, 228, 188, 141, 228, 188, 144, 228, 188, 145, 228, 188, 143, 228, 187, 178, 228, 187, 182, 228, 187, 187, 228, 187, 176, 228, 187, 179, 228, 187, 189, 228, 188, 129, 228, 188, 139, 229, 133, 137, 229, 133, 135, 229, 133, 134, 229, 133, 136, 229, 133, 168]⟩
/-- The pieces of the row 88, and those of the others. -/
def p88 : List Pce := [⟨22, 0, 0, r1⟩, ⟨35, 0, 0, r2⟩, ⟨37, 0, 0, r3⟩, ⟨53, 0, 0, r4⟩, ⟨63, 0, 0, r5⟩, ⟨66, 0, 0, r6⟩, ⟨68, 0, 0, r7⟩]
def pA1 : List Pce := [⟨0, 0, 0, m1⟩]
def pA3 : List Pce := [⟨0, 0, 0, m3⟩]
def pA4 : List Pce := [⟨0, 0, 0, m4⟩]
def pA5 : List Pce := [⟨0, 0, 0, m5⟩]
def rowP (l : Nat) : List Pce := if l = 136 then p88 else if l = 161 then pA1 else if l = 163 then pA3 else if l = 164 then pA4 else if l = 165 then pA5 else []
/-- A row's pieces, as cells and signs. -/
def zOf (l : List Pce) : List (Nat × List Nat) := l.map fun p => (p.f.toNat, (pt.scan p.s).1)
/-- What is found of a cell in pieces. -/
def saO (zs : List Nat) (A : Int) : Option Nat := if 0 ≤ A then zs[A.toNat]? else none
def lsS (C : Int) : List (Nat × List Nat) → Option Nat
  | [] => none
  | q :: l => match saO q.2 (C - (q.1 : Int)) with
    | some z => some z
    | none => lsS C l
theorem row_all : (ldL.all fun l => (List.range 157).all fun c => decide (lsS (c : Int) (zOf (rowP l)) = if sgC l c = 0 then none else some (sgC l c))) = true := by decide +kernel
theorem row_ok : (ldL.all fun l => (rowP l).all fun p => decide (0 ≤ p.f ∧ p.f ≤ 156 ∧ p.t = 0 ∧ p.c = 0 ∧ p.s.size ≤ 1000 ∧ (pt.scan p.s).2 = none)) = true := by decide +kernel
theorem ldL_mem {l : Nat} (h : l = 136 ∨ l = 161 ∨ l = 163 ∨ l = 164 ∨ l = 165) : l ∈ ldL := by
  rcases h with rfl | rfl | rfl | rfl | rfl <;> decide
theorem row_far {l : Nat} (h : ¬ (l = 136 ∨ l = 161 ∨ l = 163 ∨ l = 164 ∨ l = 165)) : rowP l = [] := by
  unfold rowP; rw [if_neg (by omega), if_neg (by omega), if_neg (by omega), if_neg (by omega), if_neg (by omega)]
/-- What is found of a cell in a row is the document's. -/
theorem row_at (l c : Nat) (hc : c < 157) : lsS (c : Int) (zOf (rowP l)) = if sgC l c = 0 then none else some (sgC l c) := by
  by_cases h : l = 136 ∨ l = 161 ∨ l = 163 ∨ l = 164 ∨ l = 165
  · have h1 := List.all_eq_true.1 row_all l (ldL_mem h)
    have h2 := List.all_eq_true.1 h1 c (List.mem_range.2 hc)
    exact of_decide_eq_true h2
  · rw [row_far h, sgC_none h]; rfl
theorem row_fine (l : Nat) {p : Pce} (hp : p ∈ rowP l) : 0 ≤ p.f ∧ p.f ≤ 156 ∧ p.t = 0 ∧ p.c = 0 ∧ p.s.size ≤ 1000 ∧ (pt.scan p.s).2 = none := by
  by_cases h : l = 136 ∨ l = 161 ∨ l = 163 ∨ l = 164 ∨ l = 165
  · have h1 := List.all_eq_true.1 row_ok l (ldL_mem h)
    have h2 := List.all_eq_true.1 h1 p hp
    exact of_decide_eq_true h2
  · rw [row_far h] at hp; cases hp
theorem row_pok (l : Nat) : ∀ p ∈ rowP l, p.ok := fun p hp => by
  obtain ⟨h1, h2, h3, h4, h5, _⟩ := row_fine l hp
  exact ⟨by omega, by omega, by omega, by omega, by omega, by omega, by omega⟩
theorem row_len (l : Nat) : (rowP l).length ≤ 7 := by
  by_cases h : l = 136 ∨ l = 161 ∨ l = 163 ∨ l = 164 ∨ l = 165
  · rcases h with rfl | rfl | rfl | rfl | rfl <;> decide
  · rw [row_far h]; decide
theorem zOf_drop (l : List Pce) (j : Nat) (h : j < l.length) : (zOf l).drop j = ((l.getD j tb.p0).f.toNat, (pt.scan (l.getD j tb.p0).s).1) :: (zOf l).drop (j + 1) := by
  have hl : j < (zOf l).length := by unfold zOf; rw [List.length_map]; exact h
  rw [List.drop_eq_getElem_cons hl]
  congr 1
  simp [zOf, List.getD, List.getElem?_eq_getElem h]
theorem saO_past {zs : List Nat} {A : Int} {k : Nat} (h : zs.length ≤ k) (hA : ¬ (0 ≤ A ∧ A < (k : Int))) : saO zs A = none := by
  unfold saO
  by_cases h0 : 0 ≤ A
  · rw [if_pos h0]; exact List.getElem?_eq_none (by omega)
  · rw [if_neg h0]
end Go.Proofs.YtiigknimfibdpaaGreatDoor.bp
namespace Go.Proofs.YtiigknimfibdpaaGreatDoor.bg
open Go.RowKit Go.Lib
open Go.Proofs.YtiigknimfibdpaaGreatDoor.tb (RowP new_cells)
set_option linter.unusedVariables false
/-- Two bytes. -/
def two (c : Nat) : ByteArray := ⟨#[UInt8.ofNat (c / 256 % 256), UInt8.ofNat (c % 256)]⟩
def sgV (l b : Nat) : Value := .tuple #[.string (sgT l b), .bool (!(sgL l b).isEmpty)]
/-- All pairs of one sign, by rising codes: of so many codes from 129 times 256 on. -/
def pr (k : Nat) : List (Int × Int) := if one (k / 256) (k % 256) = 0 then [] else [((k : Int), ((one (k / 256) (k % 256) : Nat) : Int))]
def prs : Nat → List (Int × Int)
  | 0 => []
  | n + 1 => prs n ++ pr (33024 + n)
theorem rowI_new2 (w : World) (x y : Int) (t : TypeId) : pt.RowI (w.alloc (.cells #[.int .i32 x, .int .i32 y] t)) (some ⟨w.heap.size, 0, none⟩) 2 2 [x, y] :=
  .inr ⟨_, rfl, Nat.le_refl _, by unfold maxLen; omega, rfl, fun i hi => new_cells w _ _ t i _ (by
    have hh : i = 0 ∨ i = 1 := by omega
    rcases hh with rfl | rfl <;> rfl)⟩
theorem awake_bytes : codeW [202, 65] = some (34918, 1) := by
  have h : (plc 202).map cdJ = some 34918 := by decide +kernel
  rw [codeW_not [] (show twB 202 65 = none from rfl)]
  cases hp : plc 202 with
  | none => rw [hp] at h; cases h
  | some j => rw [hp] at h; simp only [Option.map_some, Option.some.injEq] at h ⊢; rw [h]
/-- What the document's example asks of the landed functions. -/
structure Awk (K : World → Prop) : Prop where
  stay : ∀ w w', K w → Below w.heap.size w w' → K w'
  aS : ∀ w2, K w2 → Calls Tryz.prog 100 #[.int .u8 136, .int .u8 98] w2 fun e w' => e = .returned (.tuple #[.string ⟨#[195, 138, 204, 132]⟩, .bool true]) ∧ Below w2.heap.size w2 w'
  aB : ∀ w2, K w2 → Calls Tryz.prog 101 #[.slice (some ⟨w2.heap.size, 0, none⟩) 2 2] (w2.alloc (.cells #[.int .i32 202, .int .i32 65] 21)) fun e w' => e = .returned (.tuple #[.string ⟨#[136, 102]⟩, .int .i64 1]) ∧ Below w2.heap.size w2 w'
theorem signs_ex : sgV 136 98 = .tuple #[.string ⟨#[195, 138, 204, 132]⟩, .bool true] := by
  unfold sgV
  rw [show sgT 136 98 = ⟨#[195, 138, 204, 132]⟩ by decide +kernel]; rfl
set_option maxRecDepth 100000 in
set_option maxHeartbeats 1000000 in
theorem Awake_any {K : World → Prop} (L : Awk K) (w : World) (hK : K w) : Calls Tryz.prog 64 #[] w fun e w' => e = .returned (.bool true) ∧ Below w.heap.size w w' := by
  have HS := Lib.hid L.aS
  have HB := Lib.hid L.aB
  have HL := Lib.hid L.stay
  have HK := Lib.hid hK
  clear hK L
  go_enter Tryz.func64, Tryz.ntmps64
  go_wp2_with (first | (go_at_call 100; refine (HS.out _ HK.out).mono ?_; rintro e2 w2 ⟨rfl, hb2⟩; have HB2 := Lib.hid hb2; have K2 := Lib.hid (HL.out _ _ HK.out hb2); clear hb2) | (go_at_call 101; refine (HB.out _ K2.out).mono ?_; rintro e3 w3 ⟨rfl, hb3⟩; have HB3 := Lib.hid (HB2.out.trans (hb3.mono HB2.out.size)); clear hb3))
  go_ret
  exact ⟨rfl, HB3.out⟩
end Go.Proofs.YtiigknimfibdpaaGreatDoor.bg
namespace Go.Proofs.YtiigknimfibdpaaGreatDoor.tb
open Go.RowKit Go.Lib
set_option linter.unusedVariables false
/-- The pairs of pieces, or the first that is refused. -/
def mk : Nat → List (Int × Int) → List Pce → Option (List (Int × Int)) × Int
  | _, all, [] => (some all, -1)
  | i, all, p :: ps => match piece p.f p.t p.c p.s with
    | none => (none, (i : Int))
    | some more => match join all more with
      | none => (none, (i : Int))
      | some r => mk (i + 1) r ps
def made (l : List Pce) : Option (List (Int × Int)) × Int := mk 0 [] l
end Go.Proofs.YtiigknimfibdpaaGreatDoor.tb
namespace Go.Proofs.YtiigknimfibdpaaGreatDoor.tb
open Go.RowKit Go.Lib
set_option linter.unusedVariables false
/-- A block of one word. -/
structure F1 (w : World) (b : Nat) (X : Value) : Prop where
  lt : b < w.heap.size
  c0 : w.cell? ⟨b, 0, none⟩ = some X
  f0 : w.frozen? ⟨b, 0, none⟩ = false
theorem F1.below {w w' : World} {b B : Nat} {X : Value} (h : F1 w b X) (hb : Below B w w') (hB : b < B) : F1 w' b X :=
  ⟨Nat.lt_of_lt_of_le h.lt hb.size, (hb.cell (p := ⟨b, 0, none⟩) hB).trans h.c0, (hb.frozen (p := ⟨b, 0, none⟩) hB).trans h.f0⟩
theorem f1_new (w : World) (X : Value) (t : Nat) : F1 (w.alloc (.cells #[X] t)) w.heap.size X := by
  refine ⟨by simp, ?_, ?_⟩
  · rw [World.cell?_alloc_mark]; rfl
  · simp
end Go.Proofs.YtiigknimfibdpaaGreatDoor.tb
namespace Go.Proofs.YtiigknimfibdpaaGreatDoor.tb
open Go.RowKit Go.Lib
set_option linter.unusedVariables false
/-- The blocks from B on are as they were. -/
def Same (B : Nat) (w w' : World) : Prop := w.heap.size ≤ w'.heap.size ∧ ∀ k, B ≤ k → k < w.heap.size → w'.heap[k]? = w.heap[k]?
theorem Same.of {B : Nat} {w w' : World} (h : Below w.heap.size w w') : Same B w w' := ⟨h.size, fun k _ h2 => h.block k h2⟩
/-- A table's word, wherever its blocks begin. -/
def TE (TB : World → Nat → Value → List (Int × Int) → Prop) (w : World) (X : Value) (l : List (Int × Int)) : Prop := ∃ B, TB w B X l
/-- What of a table asks no function: how it stays. -/
structure TabS (K : World → Prop) (TB : World → Nat → Value → List (Int × Int) → Prop) : Prop where
  stay : ∀ w w', K w → Below w.heap.size w w' → K w'
  keep : ∀ w w' B X l, TB w B X l → Same B w w' → TB w' B X l
  one : ∀ w X l, TE TB w X l → X.oneCell' = true
  srt : ∀ w X l, TE TB w X l → Srt l
variable {K : World → Prop} {TB : World → Nat → Value → List (Int × Int) → Prop}
end Go.Proofs.YtiigknimfibdpaaGreatDoor.tb
namespace Go.Proofs.YtiigknimfibdpaaGreatDoor.tb
open Go.RowKit Go.Lib
set_option linter.unusedVariables false
theorem vr_iff (p : Int) : validRune p = true ↔ (0 ≤ p ∧ p < 55296) ∨ (57343 < p ∧ p ≤ 1114111) := by unfold validRune; simp
end Go.Proofs.YtiigknimfibdpaaGreatDoor.tb
namespace Go.Proofs.YtiigknimfibdpaaGreatDoor.tb
open Go.RowKit Go.Lib
set_option linter.unusedVariables false
variable {K : World → Prop} {TB : World → Nat → Value → List (Int × Int) → Prop}
theorem f1_three (W : World) (X Y Z : Value) : F1 (((W.alloc (.cells #[X] 74)).alloc (.cells #[Y] 74)).alloc (.cells #[Z] 74)) W.heap.size X ∧ F1 (((W.alloc (.cells #[X] 74)).alloc (.cells #[Y] 74)).alloc (.cells #[Z] 74)) (W.heap.size + 1) Y ∧
    F1 (((W.alloc (.cells #[X] 74)).alloc (.cells #[Y] 74)).alloc (.cells #[Z] 74)) (W.heap.size + 1 + 1) Z ∧ Below W.heap.size W (((W.alloc (.cells #[X] 74)).alloc (.cells #[Y] 74)).alloc (.cells #[Z] 74)) := by
  have h1 : Below W.heap.size W (W.alloc (.cells #[X] 74)) := (Below.refl _ _).alloc (Nat.le_refl _) _
  have h2 : Below (W.alloc (.cells #[X] 74)).heap.size (W.alloc (.cells #[X] 74)) ((W.alloc (.cells #[X] 74)).alloc (.cells #[Y] 74)) := (Below.refl _ _).alloc (Nat.le_refl _) _
  have h3 : Below ((W.alloc (.cells #[X] 74)).alloc (.cells #[Y] 74)).heap.size ((W.alloc (.cells #[X] 74)).alloc (.cells #[Y] 74)) (((W.alloc (.cells #[X] 74)).alloc (.cells #[Y] 74)).alloc (.cells #[Z] 74)) := (Below.refl _ _).alloc (Nat.le_refl _) _
  have e1 : (W.alloc (.cells #[X] 74)).heap.size = W.heap.size + 1 := World.size_alloc _ _
  have e2 : ((W.alloc (.cells #[X] 74)).alloc (.cells #[Y] 74)).heap.size = W.heap.size + 1 + 1 := by rw [World.size_alloc, e1]
  have h := (h1.trans (h2.mono h1.size)).trans (h3.mono (by omega))
  have y0 := f1_new (W.alloc (.cells #[X] 74)) Y 74
  have z0 := f1_new ((W.alloc (.cells #[X] 74)).alloc (.cells #[Y] 74)) Z 74
  rw [e1] at y0
  rw [e2] at z0
  exact ⟨((f1_new W X _).below h2 (by omega)).below h3 (by omega), y0.below h3 (by omega), z0, h⟩
end Go.Proofs.YtiigknimfibdpaaGreatDoor.tb
