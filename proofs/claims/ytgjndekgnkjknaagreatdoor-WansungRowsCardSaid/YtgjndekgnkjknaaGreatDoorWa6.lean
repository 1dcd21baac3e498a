/- Layer 7: what the walks ask of the landed wansung (one structure, to be paid when it has landed); the document's example. -/
import Derived.Test.YtgjndekgnkjknaaGreatDoorWa4
import Derived.Test.YtgjndekgnkjknaaGreatDoorWa5
import Derived.Test.YtgjndekgnkjknaaGreatDoorTb2
namespace Go.Proofs.YtgjndekgnkjknaaGreatDoor.wa
open Go.RowKit Go.Lib
open Go.Proofs.YtgjndekgnkjknaaGreatDoor.tb (RowP)
set_option linter.unusedVariables false
/-- Two bytes. -/
def two (c : Nat) : ByteArray := ⟨#[UInt8.ofNat (c / 256 % 256), UInt8.ofNat (c % 256)]⟩
theorem two_size (c : Nat) : (two c).size = 2 := rfl
theorem two_at0 (a b : Nat) (ha : a < 256) (hb : b < 256) : (((two (a * 256 + b))[0]'(by rw [two_size]; omega)).toNat : Int) = a := by
  show ((UInt8.ofNat ((a * 256 + b) / 256 % 256)).toNat : Int) = a
  simp; omega
theorem two_at1 (a b : Nat) (ha : a < 256) (hb : b < 256) : (((two (a * 256 + b))[1]'(by rw [two_size]; omega)).toNat : Int) = b := by
  show ((UInt8.ofNat ((a * 256 + b) % 256)).toNat : Int) = b
  simp; omega
/-- The k-th syllable in the rows, or of the others; 0: there is none. -/
def plI (k : Int) (b : Bool) : Int := if k < 0 then 0 else if (tot b : Int) ≤ k then 0 else ((kth k.toNat b : Nat) : Int)
theorem plI_none {k : Int} {b : Bool} (h : k < 0 ∨ (tot b : Int) ≤ k) : plI k b = 0 := by
  unfold plI
  rcases h with h | h
  · rw [if_pos h]
  · rw [if_neg (by omega), if_pos h]
theorem plI_some {k : Nat} {b : Bool} (h : k < tot b) : plI k b = ((kth k b : Nat) : Int) ∧ ((kth k b : Nat) : Int) ≠ 0 := by
  unfold plI
  rw [if_neg (by omega), if_neg (by omega), Int.toNat_natCast]
  obtain ⟨n, _, _, _, h4⟩ := kth_some h
  exact ⟨rfl, by rw [h4]; omega⟩
theorem plI_kth (k : Nat) (b : Bool) : plI k b = ((kth k b : Nat) : Int) := by
  by_cases h : k < tot b
  · exact (plI_some h).1
  · rw [plI_none (.inr (by omega)), kth_none (by omega)]; rfl
def plV (k : Int) (b : Bool) : Value := .tuple #[.int .i32 (plI k b), .bool (plI k b != 0)]
/-- What Rank answers. -/
def rkV (p : Int) : Value := if 44032 ≤ p ∧ p ≤ 55203 then .tuple #[.int .i64 ((rk (inB (p - 44032).toNat) (p - 44032).toNat : Nat) : Int), .bool (inB (p - 44032).toNat), .bool true] else .tuple #[.int .i64 0, .bool false, .bool false]
def sgV (S : Nat) : Value := .tuple #[.int .i32 (S : Int), .bool (decide (S ≠ 0))]
/-- What Bytes answers. -/
def byV (p : Int) : Value := if p < 0 then .tuple #[.string ⟨#[]⟩, .bool false] else match byW p.toNat with
  | some c => .tuple #[.string (two c), .bool true]
  | none => .tuple #[.string ⟨#[]⟩, .bool false]
theorem byV_some {p c : Nat} (h : byW p = some c) : byV p = .tuple #[.string (two c), .bool true] := by
  unfold byV; rw [if_neg (by omega), Int.toNat_natCast, h]
theorem byV_none {p : Nat} (h : byW p = none) : byV p = .tuple #[.string ⟨#[]⟩, .bool false] := by
  unfold byV; rw [if_neg (by omega), Int.toNat_natCast, h]
theorem byV_neg {p : Int} (h : p < 0) : byV p = .tuple #[.string ⟨#[]⟩, .bool false] := if_pos h
/-- The other signs of the rows, by rising codes. -/
def rowPs : Nat → List (Int × Int)
  | 0 => []
  | n + 1 => rowPs n ++ (if rowJ n = 0 then [] else [(((cdJ n : Nat) : Int), ((rowJ n : Nat) : Int))])
/-- What the walks ask of the landed functions: of all of them (the example), of Ranks and Places, of Signs and Bytes, of Rows. -/
structure Aw (K : World → Prop) : Prop where
  stay : ∀ w w', K w → Below w.heap.size w w' → K w'
  awS : ∀ w, K w → Calls Tryz.prog 26 #[.int .u8 176, .int .u8 162] w fun e w' => e = .returned (.tuple #[.int .i32 44033, .bool true]) ∧ Below w.heap.size w w'
  awB : ∀ w, K w → Calls Tryz.prog 27 #[.int .i32 55203] w fun e w' => e = .returned (.tuple #[.string ⟨#[198, 82]⟩, .bool true]) ∧ Below w.heap.size w w'
structure Pl (K : World → Prop) : Prop extends Aw K where
  place : ∀ (k : Int) w, K w → -9223372036854775808 ≤ k → k ≤ 9223372036854775807 → Calls Tryz.prog 49 #[.int .i64 k] w fun e w' => e = .returned (plV k true) ∧ Below w.heap.size w w'
  extra : ∀ (k : Int) w, K w → -9223372036854775808 ≤ k → k ≤ 9223372036854775807 → Calls Tryz.prog 65 #[.int .i64 k] w fun e w' => e = .returned (plV k false) ∧ Below w.heap.size w w'
  rank : ∀ (p : Int) w, K w → -2147483648 ≤ p → p ≤ 2147483647 → Calls Tryz.prog 69 #[.int .i32 p] w fun e w' => e = .returned (rkV p) ∧ Below w.heap.size w w'
structure Sn (K : World → Prop) : Prop extends Aw K where
  sign : ∀ (l b : Nat) w, K w → l < 256 → b < 256 → Calls Tryz.prog 26 #[.int .u8 l, .int .u8 b] w fun e w' => e = .returned (sgV (sgW l b)) ∧ Below w.heap.size w w'
  bytes : ∀ (p : Int) w, K w → -2147483648 ≤ p → p ≤ 2147483647 → Calls Tryz.prog 27 #[.int .i32 p] w fun e w' => e = .returned (byV p) ∧ Below w.heap.size w w'
structure Rs (K : World → Prop) : Prop extends Aw K where
  rows : ∀ w, K w → Calls Tryz.prog 4 #[] w fun e w' => ∃ A c, e = .returned (.slice A 724 c) ∧ RowP w' A 724 c (rowPs 1128) ∧ Below w.heap.size w w'
theorem sgV_pos {S : Nat} (h : S ≠ 0) : sgV S = .tuple #[.int .i32 (S : Int), .bool true] := by unfold sgV; rw [decide_eq_true h]
theorem awake_sign : sgW 176 162 = 44033 := by
  have h : inB 1 = true ∧ rk true 1 = 1 := by decide +kernel
  have h2 := kth_rank (n := 1) (by omega) h.1
  rw [h.2] at h2
  have h3 := sg_in (k := 1) (by omega)
  rw [h2] at h3
  exact h3
theorem awake_bytes : byW 55203 = some 50770 := by
  unfold byW
  rw [if_pos (by omega)]
  have h : inB 11171 = false := by decide +kernel
  have h2 : rk false 11171 = 8821 := by
    have h3 := tot_out
    rw [show 11172 = 11171 + 1 from rfl, rk_hit h] at h3
    omega
  unfold byS
  rw [show 55203 - 44032 = 11171 from rfl, h, h2]
  rfl
set_option maxRecDepth 100000 in
set_option maxHeartbeats 1000000 in
theorem Awake_any {K : World → Prop} (L : Aw K) (w : World) (hK : K w) : Calls Tryz.prog 16 #[] w fun e w' => e = .returned (.bool true) ∧ Below w.heap.size w w' := by
  have HS := Lib.hid L.awS
  have HB := Lib.hid L.awB
  have HL := Lib.hid L.stay
  have HK := Lib.hid hK
  clear hK L
  go_enter Tryz.func16, Tryz.ntmps16
  go_wp2_with (first | (go_at_call 26; refine (HS.out _ HK.out).mono ?_; rintro e2 w2 ⟨rfl, hb2⟩; have HB2 := Lib.hid hb2; have K2 := Lib.hid (HL.out _ _ HK.out hb2); clear hb2) | (go_at_call 27; refine (HB.out _ K2.out).mono ?_; rintro e3 w3 ⟨rfl, hb3⟩; have HB3 := Lib.hid (HB2.out.trans (hb3.mono HB2.out.size)); clear hb3))
  go_ret
  exact ⟨rfl, HB3.out⟩
theorem awake_any {K : World → Prop} (L : Aw K) (w : World) (hK : K w) : Calls Tryz.prog 6 #[] w fun e w' => e = .returned (.bool true) ∧ Below w.heap.size w w' := by
  have HA := Lib.hid (Awake_any L w hK)
  clear L hK
  go_enter Tryz.func6, Tryz.ntmps6
  go_wp2_with (go_at_call 16; refine (HA.out).mono ?_; rintro e2 w2 ⟨rfl, hb2⟩)
  go_ret
  exact ⟨rfl, hb2⟩
end Go.Proofs.YtgjndekgnkjknaaGreatDoor.wa
