/- The document's answer of layer 3: Unit, Units: contracts. -/
import Derived.Test.YtmogjimiiadmmaaDoorWd6
import Derived.Deep.AppendLies
namespace Go.Proofs.YtmogjimiiadmmaaDoor.wd
open Go.RowKit Go.Lib
set_option linter.unusedVariables false
theorem int_info : (Tryd.prog.info? 3).map (fun i => (i.zero, i.size, i.bytes)) = some (some (.int .i64 0), 1, 8) := by kernel_rfl
theorem Unit_any (x y : UInt8) (big : Bool) (w : World) : Calls Tryd.prog 55 #[.int .u8 x.toNat, .int .u8 y.toNat, .bool big] w fun e w' => e = .returned (.int .i64 (if big then (x.toNat : Int) * 256 + y.toNat else (y.toNat : Int) * 256 + x.toNat)) ∧ w = w' := by
  have hx := x.toNat_lt
  have hy := y.toNat_lt
  cases big
  all_goals
    go_enter Tryd.func55, Tryd.ntmps55
    go_wp2
    go_ret
    exact ⟨ret_int (by first | rfl | simp), rfl⟩
/-- The units of the first k places. -/
def ul (s : ByteArray) (big : Bool) (k : Nat) : List Value := (List.range k).map fun j => Value.int .i64 (un s big (2 * j))
theorem ul_len (s : ByteArray) (big : Bool) (k : Nat) : (ul s big k).length = k := by simp [ul]
theorem ul_succ (s : ByteArray) (big : Bool) (k : Nat) : ul s big (k + 1) = ul s big k ++ [.int .i64 (un s big (2 * k))] := by simp [ul, List.range_succ]
theorem un_get (s : ByteArray) (big : Bool) (m : Nat) (h : m + 1 < s.size) : (if big then ((s[m]'(by omega)).toNat : Int) * 256 + (s[m + 1]).toNat else ((s[m + 1]).toNat : Int) * 256 + (s[m]'(by omega)).toNat) = (un s big m : Int) := by
  have hl : s.data.toList.length = s.size := by rw [Array.length_toList]; rfl
  have e1 : s.data.toList.getD m 0 = s[m]'(by omega) := by
    simp only [List.getD, List.getElem?_eq_getElem (show m < s.data.toList.length by omega), Option.getD_some]; rfl
  have e2 : s.data.toList.getD (m + 1) 0 = s[m + 1] := by
    simp only [List.getD, List.getElem?_eq_getElem (show m + 1 < s.data.toList.length by omega), Option.getD_some]; rfl
  unfold un
  rw [e1, e2]
  cases big <;> simp
set_option maxRecDepth 100000 in
set_option maxHeartbeats 2000000 in
theorem Units_any (s : ByteArray) (big : Bool) (w : World) (hs : s.size ≤ 8000) :
    Calls Tryd.prog 39 #[.string s, .bool big] w fun e w' => ∃ v, e = .returned v ∧ w'.ownsRow w.heap.size 3 1 v (s.size / 2) (ul s big (s.size / 2)) ∧ Below w.heap.size w w' := by
  obtain ⟨i0, hi0, hzz⟩ := Option.map_eq_some_iff.1 int_info
  simp only [Prod.mk.injEq] at hzz
  obtain ⟨hz, hsi, hby⟩ := hzz
  go_enter Tryd.func39, Tryd.ntmps39
  go_wp2_with fail
  go_loopw [5, 6] (fun v i wr => ∃ k j m : Nat, m = 2 * k ∧ j = m + 1 ∧ m ≤ s.size ∧ i = .int .i64 j ∧ wr.ownsRow w.heap.size 3 1 v k (ul s big k) ∧ Below w.heap.size w wr) (fun _ i _ => s.size + 1 - (RowKit.intOf i).toNat)
  case atStart => exact ⟨0, 1, 0, rfl, rfl, Nat.zero_le _, rfl, World.ownsRow_nil _ _ _ _, Below.refl _ _⟩
  case round =>
    obtain ⟨k, j, m, hm, hj, hms, rfl, hown, hB⟩ := hrel
    have HOW := Lib.hid hown; have HB := Lib.hid hB; have HM := Lib.hid hm; have HJ := Lib.hid hj
    have hk4 : k ≤ 4000 := by omega
    clear hown hB
    by_cases hlt : j < s.size
    · have hmlt : m < s.size := by omega
      have hU := un_get s big m (by omega)
      have hUU := Unit_any (s[m]'hmlt) (s[j]'hlt) big
      have hjj : s[j]'hlt = s[m + 1]'(by omega) := by subst hj; rfl
      rw [hjj, hU] at hUU
      rw [← hjj] at hUU
      have w1 : IntKind.i64.wrap ((j : Int) - 1) = (m : Int) := by rw [IntKind.wrap_i64]; omega
      have w2 : wrap64 ((j : Int) - 1) = (m : Int) := by rw [← IntWalk.i64_left]; exact w1
      have b0 : (0 : Int) ≤ (j : Int) := by omega
      have b1 : (j : Int) < (s.size : Int) := by omega
      have b2 : (0 : Int) ≤ (m : Int) := by omega
      have b3 : (m : Int) < (s.size : Int) := by omega
      obtain ⟨U, hUe⟩ : ∃ U : Int, U = (un s big m : Int) := ⟨_, rfl⟩
      rw [← hUe] at hUU
      have HUU := Lib.hid hUU; have HUE := Lib.hid hUe
      clear hU hUU hjj hUe hm hj
      go_wp2_with fail
      go_region_held3 (fun _ => True) (trivial) ((first
        | (go_at_call 55; refine (HUU.out _).mono ?_; rintro e1 w1 ⟨rfl, rfl⟩)
        | (refine step_append_lies _ (by rfl) _ _ _ (by rfl) w.heap.size 3 i0 _ 1 8 Tryd.underlying57 hi0 hz hsi hby rfl (by decide) u5 k (ul s big k) (by rfl) ((HOW.out.alloc _).drew) ⟨wr.heap.size, 0, none⟩ 1 1 [.int .i64 U] (by rfl) (by rfl) (World.news_of_block (cs := #[.int .i64 U]) (t := 3) (fr := (0, 0)) (heap_alloc_new wr _)) (by simp [Value.oneCell']) (by omega) (by unfold maxLen; omega) (by omega) (by have := HB.out.size; simp; omega) (wr.heap.size + 1) (by simp) ?_; intro gg cap w5 hown5 hgrow hat hlt5)))
      go_wp2_with fail
      all_goals
        have HO5 := Lib.hid hown5
        have B5 := Lib.hid (below_grown0 ((HB.out.alloc HB.out.size (.cells #[.int .i64 U] 3)).drew) (by have := HB.out.size; simp; omega) ((HOW.out.alloc _).drew) hgrow)
        clear hown5 hgrow
        go_roundw
        case rel => exact ⟨k + 1, j + 2, m + 2, by have := HM.out; omega, by have := HJ.out; omega, by have := HJ.out; omega, by go_num, by rw [ul_succ, ← HM.out, ← HUE.out]; exact HO5.out, B5.out⟩
        case measure => simp [RowKit.intOf]; omega
    · have hk2 : k = s.size / 2 := by have := HM.out; have := HJ.out; omega
      go_wp2_with fail
      go_ret
      exact ⟨_, rfl, by rw [← hk2]; exact HOW.out, HB.out⟩
end Go.Proofs.YtmogjimiiadmmaaDoor.wd
