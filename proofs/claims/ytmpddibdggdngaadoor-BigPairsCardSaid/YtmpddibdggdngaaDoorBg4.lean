/- Layer 8: what the walks ask of the landed big5 (one structure, to be paid when it has landed); the document's example; the walks of BigSigns and BigBytes. -/
import Derived.Test.YtmpddibdggdngaaDoorBg3
import Derived.Test.YtmpddibdggdngaaDoorTb2
import Derived.Test.YtmpddibdggdngaaDoorOct6
namespace Go.Proofs.YtmpddibdggdngaaDoor.bg
open Go.RowKit Go.Lib
open Go.Proofs.YtmpddibdggdngaaDoor.tb (RowP new_cells)
set_option linter.unusedVariables false
/-- Two bytes. -/
def two (c : Nat) : ByteArray := ⟨#[UInt8.ofNat (c / 256 % 256), UInt8.ofNat (c % 256)]⟩
theorem two_size (c : Nat) : (two c).size = 2 := rfl
theorem conv_two (a b : Nat) (ha : a < 256) (hb : b < 256) : ∀ wx : World, (convert 31 9 (.slice (some ⟨wx.heap.size, 0, none⟩) 2 2)).run Tryd.prog (wx.alloc (.cells #[.int .u8 (a : Int), .int .u8 (b : Int)] 5)) = .ok (.string (two (a * 256 + b))) (wx.alloc (.cells #[.int .u8 (a : Int), .int .u8 (b : Int)] 5)) := fun wx => by
  have h := oct.conv_lit wx [UInt8.ofNat ((a * 256 + b) / 256 % 256), UInt8.ofNat ((a * 256 + b) % 256)]
  rw [show oct.cellsL [UInt8.ofNat ((a * 256 + b) / 256 % 256), UInt8.ofNat ((a * 256 + b) % 256)] = [.int .u8 a, .int .u8 b] by
    simp only [oct.cellsL, List.map_cons, List.map_nil]
    have e0 : ((UInt8.ofNat ((a * 256 + b) / 256 % 256)).toNat : Int) = a := by simp; omega
    have e1 : ((UInt8.ofNat ((a * 256 + b) % 256)).toNat : Int) = b := by simp; omega
    rw [e0, e1]] at h
  exact h
/-- What Bytes answers. -/
def byV : Option (Nat × Nat) → Value
  | some (c, k) => .tuple #[.string (two c), .int .i64 (k : Nat)]
  | none => .tuple #[.string ⟨#[]⟩, .int .i64 0]
def sgV (l b : Nat) : Value := .tuple #[.string (sgT l b), .bool (!(sgL l b).isEmpty)]
/-- All pairs of one sign, by rising codes: of so many codes from 129 times 256 on. -/
def pr (k : Nat) : List (Int × Int) := if one (k / 256) (k % 256) = 0 then [] else [((k : Int), ((one (k / 256) (k % 256) : Nat) : Int))]
def prs : Nat → List (Int × Int)
  | 0 => []
  | n + 1 => prs n ++ pr (33024 + n)
/-- What the walks ask of the landed functions. -/
structure Land (K : World → Prop) : Prop where
  stay : ∀ w w', K w → Below w.heap.size w w' → K w'
  signs : ∀ (l b : Nat) w, K w → l < 256 → b < 256 → Calls Tryd.prog 7 #[.int .u8 l, .int .u8 b] w fun e w' => e = .returned (sgV l b) ∧ Below w.heap.size w w'
  bytes : ∀ (A : Option Addr) (n c : Nat) (zs : List Int) w, K w → pt.RowI w A n c zs → n ≤ 1000 → Calls Tryd.prog 11 #[.slice A n c] w fun e w' => e = .returned (byV (codeW zs)) ∧ Below w.heap.size w w'
theorem rowI_new2 (w : World) (x y : Int) (t : TypeId) : pt.RowI (w.alloc (.cells #[.int .i32 x, .int .i32 y] t)) (some ⟨w.heap.size, 0, none⟩) 2 2 [x, y] :=
  .inr ⟨_, rfl, Nat.le_refl _, by unfold maxLen; omega, rfl, fun i hi => new_cells w _ _ t i _ (by
    have hh : i = 0 ∨ i = 1 := by omega
    rcases hh with rfl | rfl <;> rfl)⟩
theorem awake_bytes : codeW [202, 65] = some (34918, 1) := by
  have h : (plc 202).map cdJ = some 34918 := by decide +kernel
  rw [codeW_not [] (show twB 202 65 = none from rfl)]
  cases hp : plc 202 with
  | none => rw [hp] at h; cases h
  | some j => rw [hp] at h; simp only [Option.map_some, Option.some.injEq] at h ⊢; rw [h]
/-- What the document's example asks of the landed functions. -/
structure Awk (K : World → Prop) : Prop where
  stay : ∀ w w', K w → Below w.heap.size w w' → K w'
  aS : ∀ w2, K w2 → Calls Tryd.prog 7 #[.int .u8 136, .int .u8 98] w2 fun e w' => e = .returned (.tuple #[.string ⟨#[195, 138, 204, 132]⟩, .bool true]) ∧ Below w2.heap.size w2 w'
  aB : ∀ w2, K w2 → Calls Tryd.prog 11 #[.slice (some ⟨w2.heap.size, 0, none⟩) 2 2] (w2.alloc (.cells #[.int .i32 202, .int .i32 65] 21)) fun e w' => e = .returned (.tuple #[.string ⟨#[136, 102]⟩, .int .i64 1]) ∧ Below w2.heap.size w2 w'
theorem signs_ex : sgV 136 98 = .tuple #[.string ⟨#[195, 138, 204, 132]⟩, .bool true] := by
  unfold sgV
  rw [show sgT 136 98 = ⟨#[195, 138, 204, 132]⟩ by decide +kernel]; rfl
theorem Land.awk {K : World → Prop} (L : Land K) : Awk K where
  stay := L.stay
  aS w2 h := by
    have := L.signs 136 98 w2 h (by omega) (by omega)
    rw [signs_ex] at this
    exact this
  aB w2 h := by
    have hb : Below w2.heap.size w2 (w2.alloc (.cells #[.int .i32 202, .int .i32 65] 21)) := (Below.refl _ _).alloc (Nat.le_refl _) _
    have := L.bytes _ 2 2 [202, 65] _ (L.stay _ _ h hb) (rowI_new2 w2 202 65 21) (by omega)
    rw [awake_bytes] at this
    refine this.mono fun e w' h2 => ⟨h2.1, hb.trans (h2.2.mono (by simp))⟩
set_option maxRecDepth 100000 in
set_option maxHeartbeats 1000000 in
theorem Awake_any {K : World → Prop} (L : Awk K) (w : World) (hK : K w) : Calls Tryd.prog 20 #[] w fun e w' => e = .returned (.bool true) ∧ Below w.heap.size w w' := by
  have HS := Lib.hid L.aS
  have HB := Lib.hid L.aB
  have HL := Lib.hid L.stay
  have HK := Lib.hid hK
  clear hK L
  go_enter Tryd.func20, Tryd.ntmps20
  go_wp2_with (first | (go_at_call 7; refine (HS.out _ HK.out).mono ?_; rintro e2 w2 ⟨rfl, hb2⟩; have HB2 := Lib.hid hb2; have K2 := Lib.hid (HL.out _ _ HK.out hb2); clear hb2) | (go_at_call 11; refine (HB.out _ K2.out).mono ?_; rintro e3 w3 ⟨rfl, hb3⟩; have HB3 := Lib.hid (HB2.out.trans (hb3.mono HB2.out.size)); clear hb3))
  go_ret
  exact ⟨rfl, HB3.out⟩
theorem awake_any {K : World → Prop} (L : Awk K) (w : World) (hK : K w) : Calls Tryd.prog 9 #[] w fun e w' => e = .returned (.bool true) ∧ Below w.heap.size w w' := by
  have HA := Lib.hid (Awake_any L w hK)
  clear L hK
  go_enter Tryd.func9, Tryd.ntmps9
  go_wp2_with (go_at_call 20; refine (HA.out).mono ?_; rintro e2 w2 ⟨rfl, hb2⟩)
  go_ret
  exact ⟨rfl, hb2⟩
set_option maxRecDepth 100000 in
set_option maxHeartbeats 4000000 in
theorem bytes_walk {K : World → Prop} (L : Land K) (A : Option Addr) (n cp : Nat) (zs : List Int) (w : World) (hr : pt.RowI w A n cp zs) (hn : n ≤ 9223372036854775807) (hK : K w) : Calls Tryd.prog 4 #[.slice A n cp] w fun e w' => e = .returned (.bool true) ∧ Below w.heap.size w w' := by
  have HA := Lib.hid (fun w2 h => awake_any L.awk w2 h)
  have HL := Lib.hid L.stay
  have HK := Lib.hid hK
  by_cases hbig : 100 < n
  · have g0 : (100 : Int) < (n : Int) := by omega
    clear hr hbig hK L
    go_enter Tryd.func4, Tryd.ntmps4
    go_wp2_with (go_at_call 9; refine (HA.out _ HK.out).mono ?_; rintro e2 w2 ⟨rfl, hb2⟩)
    go_ret
    exact ⟨rfl, hb2⟩
  have g0 : ¬ (100 : Int) < (n : Int) := by omega
  have HB := Lib.hid (L.bytes A n cp zs w hK hr (by omega))
  have HC := Lib.hid (fun w2 h => code_any A n cp zs w2 h (by omega))
  have HR := Lib.hid hr
  cases hc : codeW zs with
  | none =>
    rw [hc] at HB HC
    replace HB : Hid (Calls Tryd.prog 11 #[.slice A n cp] w fun e w' => e = .returned (.tuple #[.string ⟨#[]⟩, .int .i64 0]) ∧ Below w.heap.size w w') := HB
    replace HC : Hid (∀ w2, pt.RowI w2 A n cp zs → Calls Tryd.prog 12 #[.slice A n cp] w2 fun e w' => e = .returned (.tuple #[.int .i64 (-1), .int .i64 0]) ∧ Below w2.heap.size w2 w') := HC
    clear hr hbig hK L hc
    go_enter Tryd.func4, Tryd.ntmps4
    go_wp2_with (first | (go_at_call 11; refine (HB.out).mono ?_; rintro e2 w2 ⟨rfl, hb2⟩; have B2 := Lib.hid hb2; have K2 := Lib.hid (HL.out _ _ HK.out hb2); have R2 := Lib.hid (HR.out.below hb2); clear hb2) | (go_at_call 12; refine (HC.out _ R2.out).mono ?_; rintro e3 w3 ⟨rfl, hb3⟩; have B3 := Lib.hid (B2.out.trans (hb3.mono B2.out.size)); have K3 := Lib.hid (HL.out _ _ K2.out hb3); clear hb3) | (go_at_call 9; refine (HA.out _ K3.out).mono ?_; rintro e5 w5 ⟨rfl, hb5⟩; have B5 := Lib.hid (B3.out.trans (hb5.mono B3.out.size)); clear hb5))
    go_ret
    exact ⟨rfl, B5.out⟩
  | some ck =>
    obtain ⟨c, k⟩ := ck
    have hck : c < 65536 ∧ (k = 1 ∨ k = 2) := by
      have one1 : ∀ z, (plc z).map (fun j => (cdJ j, 1)) = some (c, k) → c < 65536 ∧ (k = 1 ∨ k = 2) := fun z h => by
        cases hp : plc z with
        | none => rw [hp] at h; cases h
        | some j =>
          rw [hp] at h
          simp only [Option.map_some, Option.some.injEq, Prod.mk.injEq] at h
          have := (cdJ_one (plc_some hp).1).1
          omega
      match zs, hc with
      | [z], hc => exact one1 z hc
      | z :: y :: rest, hc =>
        cases ht : twB z y with
        | none => rw [codeW_not rest ht] at hc; exact one1 z hc
        | some b =>
          rw [codeW_two rest ht] at hc
          simp only [Option.some.injEq, Prod.mk.injEq] at hc
          have hb : b ≤ 165 := by
            unfold twB at ht
            (repeat' split at ht) <;> simp at ht <;> omega
          omega
    obtain ⟨a, b, hab, ha, hb⟩ : ∃ a b : Nat, c = a * 256 + b ∧ a < 256 ∧ b < 256 := ⟨c / 256, c % 256, by omega, by omega, by omega⟩
    subst hab
    rw [hc] at HB HC
    have hcv := conv_two a b ha hb
    obtain ⟨T, hT⟩ : ∃ T, T = two (a * 256 + b) := ⟨_, rfl⟩
    obtain ⟨C, hC⟩ : ∃ C : Int, C = ((a * 256 + b : Nat) : Int) := ⟨_, rfl⟩
    replace HB : Hid (Calls Tryd.prog 11 #[.slice A n cp] w fun e w' => e = .returned (.tuple #[.string T, .int .i64 (k : Int)]) ∧ Below w.heap.size w w') := by rw [hT]; exact HB
    replace HC : Hid (∀ w2, pt.RowI w2 A n cp zs → Calls Tryd.prog 12 #[.slice A n cp] w2 fun e w' => e = .returned (.tuple #[.int .i64 C, .int .i64 (k : Int)]) ∧ Below w2.heap.size w2 w') := by rw [hC]; exact HC
    rw [← hT] at hcv
    have q0 : C / 256 = (a : Int) := by omega
    have q1 : C % 256 = (b : Int) := by omega
    have c0 : 0 ≤ C := by omega
    have c1 : C < 65536 := by omega
    have a0 : (0 : Int) ≤ (a : Int) := by omega
    have a1 : (a : Int) < 256 := by omega
    have b0 : (0 : Int) ≤ (b : Int) := by omega
    have b1 : (b : Int) < 256 := by omega
    have k0 : ((k : Int) == 0) = false := beq_eq_false_iff_ne.2 (by omega)
    clear hr hbig hK L hc hT hC hck
    go_enter Tryd.func4, Tryd.ntmps4
    go_wp2_with (first | (go_at_call 11; refine (HB.out).mono ?_; rintro e2 w2 ⟨rfl, hb2⟩; have B2 := Lib.hid hb2; have K2 := Lib.hid (HL.out _ _ HK.out hb2); have R2 := Lib.hid (HR.out.below hb2); clear hb2) | (go_at_call 12; refine (HC.out _ R2.out).mono ?_; rintro e3 w3 ⟨rfl, hb3⟩; have B3 := Lib.hid (B2.out.trans (hb3.mono B2.out.size)); have K3 := Lib.hid (HL.out _ _ K2.out hb3); clear hb3) | (go_at_call 9; refine (HA.out _ K3.out).mono ?_; rintro e5 w5 ⟨rfl, hb5⟩; have B5 := Lib.hid (B3.out.trans (hb5.mono B3.out.size)); clear hb5))
    go_ret
    exact ⟨rfl, B5.out.alloc B5.out.size _⟩
end Go.Proofs.YtmpddibdggdngaaDoor.bg
