/- appendUnits, bytesOf, join of layer 3: contracts. -/
import Derived.Test.YtmogjimiiadmmaaDoorWd3
import Derived.Lib.AppendStr
namespace Go.Proofs.YtmogjimiiadmmaaDoor.wd
open Go.RowKit Go.Lib
set_option linter.unusedVariables false
theorem u16_info : (Tryd.prog.info? 80).map (fun i => (i.zero, i.size, i.bytes)) = some (some (.int .u16 0), 1, 2) := by kernel_rfl
theorem u8_info : (Tryd.prog.info? 5).map (fun i => (i.zero, i.size, i.bytes)) = some (some (.int .u8 0), 1, 1) := by kernel_rfl
/-- Units as cells. -/
def c16 (l : List Nat) : List Value := l.map fun (u : Nat) => Value.int .u16 (u : Int)
theorem c16_len (l : List Nat) : (c16 l).length = l.length := by simp [c16]
theorem c16_app (a b : List Nat) : c16 (a ++ b) = c16 a ++ c16 b := by simp [c16]
theorem i32_and_nat (a b : Nat) (ha : a < 2147483648) (hb : b < 2147483648) : bits .and .i32 (a : Int) (b : Int) = ((a &&& b : Nat) : Int) := by
  have e1 : (BitVec.ofInt 32 (a : Int)).toNat = a := by rw [BitVec.toNat_ofInt]; omega
  have e2 : (BitVec.ofInt 32 (b : Int)).toNat = b := by rw [BitVec.toNat_ofInt]; omega
  show IntKind.i32.wrap ((BitVec.ofInt 32 (a : Int) &&& BitVec.ofInt 32 (b : Int)).toNat : Int) = _
  rw [BitVec.toNat_and, e1, e2]
  have : a &&& b ≤ b := Nat.and_le_right
  exact IntWalk.i32_in _ (by omega)
theorem and1023 (q : Int) (h0 : 0 ≤ q) (h1 : q ≤ 1048575) : bits BinOp.and IntKind.i32 q 1023 = q % 1024 := by
  have e := i32_and_nat q.toNat 1023 (by omega) (by omega)
  have e2 : q.toNat &&& 1023 = q.toNat % 1024 := Nat.and_two_pow_sub_one_eq_mod q.toNat 10
  rw [e2, Int.toNat_of_nonneg h0] at e
  have e3 : ((q.toNat % 1024 : Nat) : Int) = q % 1024 := by omega
  exact e.trans e3
theorem us_lo (p : Int) (h0 : 0 ≤ p) (h1 : p < 65536) : c16 (us p) = [.int .u16 p] ∧ (us p).length = 1 := by
  have e : us p = [p.toNat] := by unfold us; rw [if_pos h1]
  rw [e]
  refine ⟨?_, rfl⟩
  simp [c16]; omega
theorem us_hi (p : Int) (h0 : 65536 ≤ p) : c16 (us p) = [.int .u16 (55296 + (p - 65536) / 1024), .int .u16 (56320 + (p - 65536) % 1024)] ∧ (us p).length = 2 := by
  have e : us p = [55296 + (p.toNat - 65536) / 1024, 56320 + (p.toNat - 65536) % 1024] := by unfold us; rw [if_neg (by omega)]
  rw [e]
  refine ⟨?_, rfl⟩
  simp only [c16, List.map_cons, List.map_nil, List.cons.injEq, Value.int.injEq, true_and, and_true]
  omega
/-- The units of a sign, behind others. -/
def Grown (B : Nat) (w : World) (n : Nat) (l : List Nat) (e : Ending) (w' : World) : Prop := ∃ v', e = .returned v' ∧ w'.ownsRow B 80 1 v' n (c16 l) ∧ Below B w w'
set_option maxRecDepth 100000 in
theorem units_lo (B : Nat) (v : Value) (n : Nat) (l : List Nat) (p : Int) (w : World) (hown : w.ownsRow B 80 1 v n (c16 l)) (hn : n ≤ 16000) (hB : B ≤ w.heap.size) (h0 : 0 ≤ p) (h1 : p < 65536) :
    Calls Tryd.prog 40 #[v, .int .i32 p] w (Grown B w (n + (us p).length) (l ++ us p)) := by
  obtain ⟨i0, hi0, hzz⟩ := Option.map_eq_some_iff.1 u16_info
  simp only [Prod.mk.injEq] at hzz
  obtain ⟨hz, hsi, hby⟩ := hzz
  have hu := us_lo p h0 h1
  have HOW := Lib.hid hown; have HU := Lib.hid hu
  clear hown hu
  go_enter Tryd.func40, Tryd.ntmps40
  go_wp2_with (at_builtin; refine wpList_append_own _ rfl _ _ 59 rfl B 80 i0 (.int .u16 0) 1 2 Tryd.underlying59 hi0 hz hsi hby rfl (by decide) _ _ _ rfl (HOW.out.alloc _) ⟨w.heap.size, 0, none⟩ 1 1 [.int .u16 p] rfl rfl ?c1 ?c2 ?c3 ?c4 ?c5 ?_)
  case c1 =>
    intro j u hj
    match j, hj with
    | 0, hj =>
      simp at hj
      subst hj
      have e : (⟨w.heap.size, 0, none⟩ : Addr).add 0 = ⟨w.heap.size, 0, none⟩ := by simp [Addr.add]
      rw [e, World.cell?_alloc_mark]; rfl
    | (j + 1), hj => simp at hj
  case c2 => intro u hu; simp at hu; subst hu; rfl
  case c3 => unfold maxLen; omega
  case c4 => omega
  case c5 => simp; omega
  intro v' w5 hown5 hgrow _
  have HO5 := Lib.hid hown5
  have hB5 := Lib.hid (pt.below_grown (Below.refl B w) hB HOW.out hgrow)
  clear hown5 hgrow
  go_wp2
  go_ret
  refine ⟨v', rfl, ?_, hB5.out⟩
  rw [c16_app, HU.out.1, HU.out.2]
  exact HO5.out
set_option maxRecDepth 100000 in
theorem units_hi (B : Nat) (v : Value) (n : Nat) (l : List Nat) (p : Int) (w : World) (hown : w.ownsRow B 80 1 v n (c16 l)) (hn : n ≤ 16000) (hB : B ≤ w.heap.size) (h0 : 65536 ≤ p) (h1 : p ≤ 1114111) :
    Calls Tryd.prog 40 #[v, .int .i32 p] w (Grown B w (n + (us p).length) (l ++ us p)) := by
  obtain ⟨i0, hi0, hzz⟩ := Option.map_eq_some_iff.1 u16_info
  simp only [Prod.mk.injEq] at hzz
  obtain ⟨hz, hsi, hby⟩ := hzz
  have hu := us_hi p h0
  have han := and1023 (p - 65536) (by omega) (by omega)
  have g1 : 0 ≤ (p - 65536) / 1024 := by omega
  have g2 : (p - 65536) / 1024 ≤ 1023 := by omega
  have g3 : 0 ≤ (p - 65536) % 1024 := by omega
  have g4 : (p - 65536) % 1024 ≤ 1023 := by omega
  have HOW := Lib.hid hown; have HU := Lib.hid hu
  clear hown hu
  go_enter Tryd.func40, Tryd.ntmps40
  go_wp2_with (at_builtin; refine wpList_append_own _ rfl _ _ 59 rfl B 80 i0 (.int .u16 0) 1 2 Tryd.underlying59 hi0 hz hsi hby rfl (by decide) _ _ _ rfl (HOW.out.alloc _) ⟨w.heap.size, 0, none⟩ 2 2 [.int .u16 (55296 + (p - 65536) / 1024), .int .u16 (56320 + (p - 65536) % 1024)] rfl rfl ?c1 ?c2 ?c3 ?c4 ?c5 ?_)
  case c1 =>
    intro j u hj
    match j, hj with
    | 0, hj =>
      simp at hj
      subst hj
      have e : (⟨w.heap.size, 0, none⟩ : Addr).add 0 = ⟨w.heap.size, 0, none⟩ := by simp [Addr.add]
      rw [e, World.cell?_alloc_mark]; rfl
    | 1, hj =>
      simp at hj
      subst hj
      have e : (⟨w.heap.size, 0, none⟩ : Addr).add 1 = ⟨w.heap.size, 1, none⟩ := by simp [Addr.add]
      rw [e, World.cell?_alloc_mark]; rfl
    | (j + 2), hj => simp at hj
  case c2 => intro u hu; simp at hu; rcases hu with rfl | rfl <;> rfl
  case c3 => unfold maxLen; omega
  case c4 => omega
  case c5 => simp; omega
  intro v' w5 hown5 hgrow _
  have HO5 := Lib.hid hown5
  have hB5 := Lib.hid (pt.below_grown (Below.refl B w) hB HOW.out hgrow)
  clear hown5 hgrow
  go_wp2
  go_ret
  refine ⟨v', rfl, ?_, hB5.out⟩
  rw [c16_app, HU.out.1, HU.out.2]
  exact HO5.out
theorem units_any (B : Nat) (v : Value) (n : Nat) (l : List Nat) (p : Int) (w : World) (hown : w.ownsRow B 80 1 v n (c16 l)) (hn : n ≤ 16000) (hB : B ≤ w.heap.size) (hv : validRune p = true) :
    Calls Tryd.prog 40 #[v, .int .i32 p] w (Grown B w (n + (us p).length) (l ++ us p)) := by
  have := valid_range hv
  by_cases h : p < 65536
  · exact units_lo B v n l p w hown hn hB (by omega) h
  · exact units_hi B v n l p w hown hn hB (by omega) (by omega)
theorem bigL_two (u : Nat) (h : u < 65536) : oct.bigL 256 2 u = ub true u ∧ (oct.bigL 256 2 u).reverse = ub false u := by
  have e : oct.bigL 256 2 u = [UInt8.ofNat (u / 256 % 256), UInt8.ofNat (u % 256)] := by simp [oct.bigL]
  have e2 : u / 256 % 256 = u / 256 := by omega
  rw [e, e2]
  simp [ub]
theorem bytesOf_any (u : Nat) (big : Bool) (w : World) (h : u < 65536) : Calls Tryd.prog 56 #[.int .u16 u, .bool big] w fun e w' => e = .returned (.string ⟨(ub big u).toArray⟩) ∧ Below w.heap.size w w' := by
  have hb := bigL_two u h
  cases big with
  | true =>
    have hc := oct.big_any u 2 2 w (by omega) (by omega) rfl (by omega)
    rw [hb.1] at hc
    have hu1 : (u : Int) ≤ 65535 := by omega
    clear hb h
    generalize ub true u = T at *
    have hu0 : 0 ≤ (u : Int) := by omega
    generalize (u : Int) = U at *
    have HC := Lib.hid hc
    clear hc
    go_enter Tryd.func56, Tryd.ntmps56
    go_wp2_with (go_at_call 66; with_reducible refine HC.out.mono ?_; rintro e1 w1 ⟨rfl, hb1⟩)
    go_ret
    exact ⟨rfl, hb1⟩
  | false =>
    have hc := oct.small_any u 2 2 w (by omega) (by omega) rfl (by omega)
    rw [hb.2] at hc
    have hu1 : (u : Int) ≤ 65535 := by omega
    clear hb h
    generalize ub false u = T at *
    have hu0 : 0 ≤ (u : Int) := by omega
    generalize (u : Int) = U at *
    have HC := Lib.hid hc
    clear hc
    go_enter Tryd.func56, Tryd.ntmps56
    go_wp2_with (go_at_call 67; with_reducible refine HC.out.mono ?_; rintro e1 w1 ⟨rfl, hb1⟩)
    go_ret
    exact ⟨rfl, hb1⟩
end Go.Proofs.YtmogjimiiadmmaaDoor.wd
