/- The document's answer of layer 5: Decode, Encode: contracts. -/
import Derived.Test.YtiokdeomdeenbaaDoorSg1
import Derived.Test.YtiokdeomdeenbaaDoorPt13
namespace Go.Proofs.YtiokdeomdeenbaaDoor.sg
open Go.RowKit Go.Lib
set_option linter.unusedVariables false
theorem data_app (t s : ByteArray) : (t ++ s).data.toList = t.data.toList ++ s.data.toList := by simp
theorem txt_snoc (zs : List Int) (p : Int) : pt.txt zs ++ strOfNums (encodeRuneZ p) = pt.txt (zs ++ [p]) := by
  apply ByteArray.ext
  apply Array.ext'
  show (pt.txt zs ++ strOfNums (encodeRuneZ p)).data.toList = (pt.txt (zs ++ [p])).data.toList
  rw [data_app, pt.txt_data, pt.txt_data, strOfNums_data]
  simp [pt.nums]
theorem ret_si {s : ByteArray} {a b : Int} (h : a = b) : Ending.returned (.tuple #[.string s, .int .i64 a]) = .returned (.tuple #[.string s, .int .i64 b]) := by rw [h]
theorem sdec_len (c : Int) (l : List UInt8) : (sdec c l).length = l.length := by simp [sdec]
theorem sdec_app (c : Int) (a b : List UInt8) : sdec c (a ++ b) = sdec c a ++ sdec c b := by simp [sdec]
theorem txt_app (a b : List Int) : pt.txt (a ++ b) = pt.txt a ++ pt.txt b := by
  apply ByteArray.ext
  apply Array.ext'
  show (pt.txt (a ++ b)).data.toList = (pt.txt a ++ pt.txt b).data.toList
  rw [data_app, pt.txt_data, pt.txt_data, pt.txt_data]
  simp [pt.nums]
theorem txt_most (l : List Int) : (pt.txt l).size ≤ 4 * l.length := by
  show (strOfNums (pt.nums l)).size ≤ _
  rw [strOfNums_size]; exact pt.nums_len l
theorem str_one (k : Nat) (h : k < 256) : strOfNums [(k : Int)] = ⟨[UInt8.ofNat k].toArray⟩ := by
  have e := pt.str_back ⟨[UInt8.ofNat k].toArray⟩
  have e2 : (⟨[UInt8.ofNat k].toArray⟩ : ByteArray).data.toList = [UInt8.ofNat k] := rfl
  rw [e2] at e
  have e3 : ((UInt8.ofNat k).toNat : Int) = k := by simp; omega
  simp only [List.map_cons, List.map_nil, e3] at e
  exact e
set_option maxRecDepth 100000 in
set_option maxHeartbeats 2000000 in
theorem refDecode_any (c : Int) (s : ByteArray) (w : World) (h0 : 0 ≤ c) (h1 : c ≤ 3) (hs : s.size ≤ 8000) :
    Calls Tryd.prog 32 #[.int .i64 c, .string s] w fun e w' => e = .returned (.string (pt.txt (sdec c s.data.toList))) ∧ Below w.heap.size w w' := by
  have hl : s.data.toList.length = s.size := by rw [Array.length_toList]; rfl
  obtain ⟨T, hT⟩ : ∃ T, T = pt.txt (sdec c s.data.toList) := ⟨_, rfl⟩
  rw [← hT]
  have HT := Lib.hid hT; have HL := Lib.hid hl
  clear hT hl
  go_enter Tryd.func32, Tryd.ntmps32
  go_wp2_with fail
  go_loopw [5, 6] (fun t i wr => ∃ j : Nat, j ≤ s.size ∧ i = .int .i64 j ∧ t = .string (pt.txt (sdec c (s.data.toList.take j))) ∧ Below w.heap.size w wr) (fun _ i _ => s.size - (RowKit.intOf i).toNat)
  case atStart => exact ⟨0, Nat.zero_le _, rfl, by simp [sdec]; rfl, Below.refl _ _⟩
  case round =>
    obtain ⟨j, hj, rfl, rfl, hB⟩ := hrel
    have HB := Lib.hid hB
    clear hB
    by_cases hlt : j < s.size
    · have htk : s.data.toList.take (j + 1) = s.data.toList.take j ++ [s[j]] := by
        rw [List.take_add_one, List.getElem?_eq_getElem (by have := HL.out; omega)]; simp; rfl
      have hb := (s[j]).toNat_lt
      have hsn : pt.txt (sdec c (s.data.toList.take j)) ++ strOfNums (encodeRuneZ (sgn c (s[j]).toNat)) = pt.txt (sdec c (s.data.toList.take (j + 1))) := by
        rw [htk, sdec_app, txt_snoc]; rfl
      have hBY := fun w2 => pt.bytes_any (sgn c (s[j]).toNat) w2 (sgn_valid h0 h1 hb)
      have hSG := fun w2 => sign_any c (s[j]).toNat w2 h0 h1 hb
      have hBs : (strOfNums (encodeRuneZ (sgn c (s[j]).toNat))).size ≤ 4 := by rw [strOfNums_size]; exact (encodeRuneZ_length _).2
      have hTs := txt_most (sdec c (s.data.toList.take j))
      rw [sdec_len] at hTs
      have hTl : (s.data.toList.take j).length ≤ j := List.length_take_le _ _
      generalize sgn c (s[j]).toNat = S at *
      generalize strOfNums (encodeRuneZ S) = B at *
      generalize pt.txt (sdec c (s.data.toList.take j)) = T0 at *
      have hcat : ¬ 9223372036854775807 < T0.size + B.size := by omega
      have HSN := Lib.hid hsn; have HBY := Lib.hid hBY; have HSG := Lib.hid hSG
      clear htk hsn hBY hSG hBs hTs hTl
      go_wp2_with (first | (go_at_call 29; refine (HSG.out _).mono ?_; rintro e2 w2 ⟨rfl, hb2⟩) | (go_at_call 57; refine (HBY.out _).mono ?_; rintro e3 w3 ⟨rfl, hb3⟩))
      go_roundw
      case rel => exact ⟨j + 1, by omega, by go_num, by rw [HSN.out], (HB.out.trans (hb2.mono HB.out.size)).trans (hb3.mono (Nat.le_trans HB.out.size hb2.size))⟩
      case measure => simp [RowKit.intOf]; omega
    · have hR : Hid (pt.txt (sdec c (s.data.toList.take j)) = T) := Lib.hid (by rw [List.take_of_length_le (by have := HL.out; omega)]; exact HT.out.symm)
      go_wp2_with fail
      go_ret
      exact ⟨congrArg (fun t => Ending.returned (.string t)) hR.out, HB.out⟩
/-- Where the signs of a row begin whose text has begun before. -/
def far : Option Nat → Int
  | none => -1
  | some a => (a : Int)
/-- What Encode answers. -/
def Enc5 (w : World) (r : List UInt8 × Option Nat) (e : Ending) (w' : World) : Prop :=
  e = .returned (.tuple #[.string (if r.2 = none then ⟨r.1.toArray⟩ else ⟨#[]⟩), .int .i64 (far r.2)]) ∧ Below w.heap.size w w'
theorem senc_cons_bad {c p : Int} {l : List Int} {a : Nat} (h : byte c p < 0) : senc c a (p :: l) = ([], some a) := by
  show (if byte c p < 0 then _ else _) = _
  rw [if_pos h]
theorem senc_cons_good {c p : Int} {l : List Int} {a k : Nat} (h : byte c p = (k : Int)) : senc c a (p :: l) = (UInt8.ofNat k :: (senc c (a + (encodeRuneZ p).length) l).1, (senc c (a + (encodeRuneZ p).length) l).2) := by
  show (if byte c p < 0 then _ else _) = _
  rw [if_neg (by omega), h]
  rfl
set_option maxRecDepth 100000 in
set_option maxHeartbeats 4000000 in
theorem refEncode_any (c : Int) (p : Option Addr) (n d : Nat) (zs : List Int) (w : World) (h0 : 0 ≤ c) (h1 : c ≤ 3) (h : pt.RowI w p n d zs) (hn : n ≤ 8000) (hv : zs.all validRune = true) :
    Calls Tryd.prog 35 #[.int .i64 c, .slice p n d] w (Enc5 w (senc c 0 zs)) := by
  obtain ⟨R, hR⟩ : ∃ R, R = senc c 0 zs := ⟨_, rfl⟩
  rw [← hR]
  have HRR := Lib.hid hR
  have HLN := Lib.hid h.len; have R0 := Lib.hid h; have HV := Lib.hid hv
  clear h hv hR
  go_enter Tryd.func35, Tryd.ntmps35
  go_wp2_with fail
  go_loopw [6, 7, 8] (fun t a i wr => ∃ (j at' : Nat) (pre : List UInt8), j ≤ n ∧ at' ≤ 4 * j ∧ pre.length = j ∧ i = .int .i64 j ∧ a = .int .i64 at' ∧ t = .string ⟨pre.toArray⟩ ∧ R = (pre ++ (senc c at' (zs.drop j)).1, (senc c at' (zs.drop j)).2) ∧ Below w.heap.size w wr) (fun _ _ i _ => n - (RowKit.intOf i).toNat)
  case atStart => exact ⟨0, 0, [], Nat.zero_le _, Nat.le_refl _, rfl, rfl, rfl, rfl, by rw [HRR.out]; rfl, Below.refl _ _⟩
  case round =>
    obtain ⟨j, at', pre, hj, hat, hpl, rfl, rfl, rfl, hq, hB⟩ := hrel
    have HR := Lib.hid (R0.out.below hB); have HB := Lib.hid hB; have HQ := Lib.hid hq; have HPL := Lib.hid hpl
    clear hB hq hpl
    by_cases hlt : j < n
    · obtain ⟨a, rfl, a1, a2, a3⟩ := HR.out.at j hlt
      unfold maxLen at a2
      have hjl : j < zs.length := by have := HLN.out; omega
      have hdr : zs.drop j = zs.getD j 0 :: zs.drop (j + 1) := by rw [List.drop_eq_getElem_cons hjl]; simp [List.getD, List.getElem?_eq_getElem hjl]
      have hvj : validRune (zs.getD j 0) = true := List.all_eq_true.1 HV.out _ (by simp [List.getD, List.getElem?_eq_getElem hjl])
      have hq := HQ.out
      rw [hdr] at hq
      have hBY := fun w2 => pt.bytes_any (zs.getD j 0) w2 hvj
      have hBT := fun w2 => byte_any c (zs.getD j 0) w2 h0 h1
      have hBs : (strOfNums (encodeRuneZ (zs.getD j 0))).size = (encodeRuneZ (zs.getD j 0)).length := strOfNums_size _
      have hB4 := (encodeRuneZ_length (zs.getD j 0)).2
      generalize zs.getD j 0 = x at *
      rcases byte_cases c x with ⟨hb, _⟩ | ⟨k, hb, hk, _⟩
      · rw [senc_cons_bad (by omega)] at hq
        rw [hb] at hBT
        have HBT := Lib.hid hBT; have HRV := Lib.hid hq
        clear hBT hq hBY hBs hB4 hdr hvj hjl
        go_wp2_with (go_at_call 59; refine (HBT.out _).mono ?_; rintro e2 w2 ⟨rfl, hb2⟩)
        go_ret2
        exact ⟨by rw [HRV.out]; rfl, HB.out.trans (hb2.mono HB.out.size)⟩
      · rw [senc_cons_good hb] at hq
        rw [hb] at hBT
        rw [← hBs] at hq
        have hs1 := str_one k hk
        have hpz : (⟨pre.toArray⟩ : ByteArray).size = j := by show pre.toArray.size = j; rw [List.size_toArray]; exact HPL.out
        have hap : (⟨pre.toArray⟩ : ByteArray) ++ strOfNums [(k : Int)] = ⟨(pre ++ [UInt8.ofNat k]).toArray⟩ := by
          apply ByteArray.ext
          apply Array.ext'
          show ((⟨pre.toArray⟩ : ByteArray) ++ strOfNums [(k : Int)]).data.toList = (pre ++ [UInt8.ofNat k])
          rw [data_app, hs1]
        have hz1 : (strOfNums [(k : Int)]).size = 1 := strOfNums_size _
        have g0 : (0 : Int) ≤ (k : Int) := by omega
        have g1 : (k : Int) ≤ 255 := by omega
        obtain ⟨T0, hT0⟩ : ∃ T0 : ByteArray, T0 = ⟨pre.toArray⟩ := ⟨_, rfl⟩
        rw [← hT0] at hpz hap ⊢
        have hcv := fun w2 => pt.conv_nums w2 [(k : Int)] 1 #[.int .u8 (k : Int)] rfl (by decide) rfl
        generalize strOfNums [(k : Int)] = K1 at *
        generalize strOfNums (encodeRuneZ x) = B at *
        have hov : ¬ 9223372036854775807 < T0.size + K1.size := by omega
        have hBz : B.size ≤ 4 := by omega
        have HBT := Lib.hid hBT; have HBY := Lib.hid hBY; have HRV := Lib.hid hq; have HAP := Lib.hid hap; have HS1 := Lib.hid hs1
        clear hBT hBY hq hap hs1 hBs hB4 hdr hvj hjl hT0
        go_wp2_with (first | (go_at_call 59; refine (HBT.out _).mono ?_; rintro e2 w2 ⟨rfl, hb2⟩; have hc2 := hcv w2; have a4 := (hb2.cell (World.block_lt_of_cell? wr _ a3)).trans a3; have a5 := (((Below.refl w2.heap.size w2).alloc (Nat.le_refl _) (.cells #[.int .u8 (k : Int)] 5)).cell (World.block_lt_of_cell? w2 _ a4)).trans a4) | (go_at_call 57; refine (HBY.out _).mono ?_; rintro e3 w3 ⟨rfl, hb3⟩))
        go_roundw
        case rel => exact ⟨j + 1, at' + B.size, pre ++ [UInt8.ofNat k], by omega, by omega, by rw [List.length_append, HPL.out]; rfl, by go_num, by go_num, by rw [HAP.out], by rw [List.append_assoc]; exact HRV.out, ((HB.out.trans (hb2.mono HB.out.size)).alloc (Nat.le_trans HB.out.size hb2.size) _).trans (hb3.mono (by have := HB.out.size; have := hb2.size; simp; omega))⟩
        case measure => simp [RowKit.intOf]; omega
    · have hq := HQ.out
      rw [List.drop_of_length_le (by have := HLN.out; omega)] at hq
      have hq2 : R = (pre, none) := by rw [hq]; simp [senc]
      have HRV := Lib.hid hq2
      clear hq hq2
      go_wp2_with fail
      go_ret2
      exact ⟨by rw [HRV.out]; rfl, HB.out⟩
end Go.Proofs.YtiokdeomdeenbaaDoor.sg
