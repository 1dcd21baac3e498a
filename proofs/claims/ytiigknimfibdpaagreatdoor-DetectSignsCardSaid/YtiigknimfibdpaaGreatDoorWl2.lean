/- The landed wansung: member: a contract. -/
import Derived.Test.YtiigknimfibdpaaGreatDoorZ4
import Derived.Test.YtiigknimfibdpaaGreatDoorPtA
import Derived.Lib.DecodeN
namespace Go.Proofs.YtiigknimfibdpaaGreatDoor.wa
open Go.RowKit Go.Lib
set_option linter.unusedVariables false
theorem slice_at (s : ByteArray) (i j : Int) (h0 : 0 ≤ i) (h1 : i ≤ j) (h2 : j ≤ (s.size : Int)) (w : World) : (Instr.slice 9 (.string s) (some (.int .i64 i)) (some (.int .i64 j)) none).run Tryz.prog w = .ok (.string (s.extract i.toNat j.toNat)) w :=
  run_slice_string _ 9 s .i64 .i64 _ _ Tryz.underlying9 h0 h1 h2
theorem list3 {l : List UInt8} {i : Nat} {x y z : UInt8} (h0 : l[i]? = some x) (h1 : l[i + 1]? = some y) (h2 : l[i + 2]? = some z) : (l.drop i).take 3 = [x, y, z] := by
  have e0 := List.getElem?_eq_some_iff.1 h0
  have e1 := List.getElem?_eq_some_iff.1 h1
  have e2 := List.getElem?_eq_some_iff.1 h2
  obtain ⟨a0, a1⟩ := e0
  obtain ⟨b0, b1⟩ := e1
  obtain ⟨c0, c1⟩ := e2
  rw [List.drop_eq_getElem_cons a0, List.drop_eq_getElem_cons b0, List.drop_eq_getElem_cons c0, a1, b1, c1]
  rfl
theorem ext3 {s : ByteArray} {i : Nat} {x y z : UInt8} (h0 : s.data.toList[i]? = some x) (h1 : s.data.toList[i + 1]? = some y) (h2 : s.data.toList[i + 2]? = some z) : s.extract i (i + 3) = ⟨#[x, y, z]⟩ := by
  have e : (s.extract i (i + 3)).data.toList = [x, y, z] := by
    rw [ByteArray.data_extract, Array.toList_extract, List.extract_eq_take_drop, Nat.add_sub_cancel_left]
    exact list3 h0 h1 h2
  cases hT : s.extract i (i + 3) with
  | mk d =>
    rw [hT] at e
    congr 1
    apply Array.ext'
    exact e
theorem dec3 (x y z : UInt8) (c : Nat) (hx : x.toNat = 224 + c / 4096) (hy : y.toNat = 128 + c / 64 % 64) (hz : z.toNat = 128 + c % 64) (h0 : 44032 ≤ c) (h1 : c ≤ 55203) : Lib.decodeGo ⟨#[x, y, z]⟩ = (c, 3) := by
  have e : Lib.decodeGo ⟨#[x, y, z]⟩ = Utf8.decode ⟨#[x, y, z]⟩ 0 := rfl
  rw [e, decode_at]
  have g : decodeN ((⟨#[x, y, z]⟩ : ByteArray).size - 0) ((⟨#[x, y, z]⟩ : ByteArray).get! 0).toNat ((⟨#[x, y, z]⟩ : ByteArray).get! (0 + 1)).toNat ((⟨#[x, y, z]⟩ : ByteArray).get! (0 + 2)).toNat ((⟨#[x, y, z]⟩ : ByteArray).get! (0 + 3)).toNat = decodeN 3 x.toNat y.toNat z.toNat 0 := rfl
  rw [g, hx, hy, hz]
  unfold decodeN
  rw [if_neg (by omega), if_neg (by omega), if_pos (by omega), if_pos (by omega)]
  exact Prod.ext (by show (224 + c / 4096) % 16 * 4096 + (128 + c / 64 % 64) % 64 * 64 + (128 + c % 64) % 64 = c; omega) rfl
set_option maxRecDepth 1000000 in
set_option maxHeartbeats 4000000 in
theorem member_any (k : Nat) (w : World) (hk : k < 2350) (hT : pt.Tabs w) : Calls Tryz.prog 163 #[.int .i64 k] w fun e w' => e = .returned (.int .i32 ((kth k true : Nat) : Int)) ∧ Below w.heap.size w w' := by
  obtain ⟨x, y, z, k0, k1, k2, hx, hy, hz, c0, c1⟩ := mem_bytes hk
  have hE := ext3 k0 k1 k2
  have hD := dec3 x y z _ hx hy hz c0 c1
  have hsl : ∀ wx, (Instr.slice 9 (.string memS) (some (.int .i64 ((k : Int) * 3))) (some (.int .i64 (((k : Int) + 1) * 3))) none).run Tryz.prog wx = .ok (.string ⟨#[x, y, z]⟩) wx := fun wx => by
    rw [slice_at memS ((k : Int) * 3) (((k : Int) + 1) * 3) (by omega) (by omega) (by rw [memS_size]; omega) wx, ← hE]
    rw [show ((k : Int) * 3).toNat = 3 * k by omega, show (((k : Int) + 1) * 3).toNat = 3 * k + 3 by omega]
  have HC := Lib.hid (fun w2 h2 => Tryz.utf8_DecodeRuneInString ⟨#[x, y, z]⟩ w2 h2)
  rw [hD] at HC
  simp only at HC
  have HT := Lib.hid hT
  unfold memS at hsl
  generalize (⟨#[x, y, z]⟩ : ByteArray) = T at *
  generalize kth k true = C at *
  clear hE hD k0 k1 k2 hx hy hz c0 c1 hT
  have g0 : (0 : Int) ≤ (k : Int) := by omega
  have g1 : (k : Int) < 2350 := by omega
  go_enter Tryz.func163, Tryz.ntmps163
  go_wp2_with (go_at_call 149; refine (HC.out _ HT.out).mono ?_; rintro e1 w1 ⟨rfl, hb⟩; have HB := Lib.hid hb; clear hb)
  go_ret
  exact ⟨rfl, HB.out⟩
end Go.Proofs.YtiigknimfibdpaaGreatDoor.wa
