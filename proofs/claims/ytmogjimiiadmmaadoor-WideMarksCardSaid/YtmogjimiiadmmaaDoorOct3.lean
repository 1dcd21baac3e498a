/- A reader of layer 1: Take, Peek and Rest at a fault, and new readers: contracts. -/
import Derived.Test.YtmogjimiiadmmaaDoorOct2
namespace Go.Proofs.YtmogjimiiadmmaaDoor.oct
open Go.RowKit
set_option linter.unusedVariables false
theorem take_short (w : World) (b : Nat) (t : ByteArray) (k l : Nat) (n bs at' : Int) (h : Rd w b t k bs 0 at') (hk : k + l = t.size) (hn : n < 0 ∨ (l : Int) < n) (ht : t.size ≤ maxLen) (z0 : 0 ≤ bs) (z1 : bs ≤ 9223372036854775807) :
    Calls Tryd.prog 76 #[.pointer (some ⟨b, 0, none⟩), .int .i64 n] w fun e' w' => e' = .returned (.string ⟨#[]⟩) ∧ Rd w' b t k bs 1 (plc bs t.size) ∧ Upd b w w' := by
  have ht' := ht
  unfold maxLen at ht
  have H := Lib.hid h
  have HK := Lib.hid hk
  have hlt := h.lt
  have hk' : k ≤ t.size := by omega
  clear h hk
  rcases hn with hn | hn
  · go_enter Tryd.func76, Tryd.ntmps76
    go_wp2_with (first | (go_at_call 61; refine (stopped_some _ _ 0 at' H.out.lt H.out.c3 H.out.c4).mono ?_; rintro e1 w1 ⟨rfl, hb1⟩; have h1 := Lib.hid (H.out.below hb1 hlt)) | (go_at_call 79; refine (short_on _ _ _ _ _ _ h1.out ht' z0 z1).mono ?_; rintro e2 w2 ⟨rfl, hR, hU⟩))
    go_ret
    exact ⟨rfl, hR, (Upd.of hb1 (Nat.le_refl _)).trans hU⟩
  · have hn' : ¬ n < 0 := by omega
    go_enter Tryd.func76, Tryd.ntmps76
    go_wp2_with (first | (go_at_call 61; refine (stopped_some _ _ 0 at' H.out.lt H.out.c3 H.out.c4).mono ?_; rintro e1 w1 ⟨rfl, hb1⟩; have h1 := Lib.hid (H.out.below hb1 hlt); have l1 := hb1.size) | (go_at_call 52; refine (left_l _ _ _ _ _ _ _ h1.out HK.out ht').mono ?_; rintro e1 w2 ⟨rfl, hb2⟩; have h2 := Lib.hid (h1.out.below hb2 (Nat.lt_of_lt_of_le hlt l1))) | (go_at_call 79; refine (short_on _ _ _ _ _ _ h2.out ht' z0 z1).mono ?_; rintro e2 w3 ⟨rfl, hR, hU⟩))
    go_ret
    exact ⟨rfl, hR, ((Upd.of hb1 (Nat.le_refl _)).trans (Upd.of hb2 (Nat.le_refl _))).trans hU⟩
theorem take_off (w : World) (b : Nat) (t : ByteArray) (k bs e at' n : Int) (h : Rd w b t k bs e at') (he : (e != 0) = true) :
    Calls Tryd.prog 76 #[.pointer (some ⟨b, 0, none⟩), .int .i64 n] w fun e' w' => e' = .returned (.string ⟨#[]⟩) ∧ Below w.heap.size w w' := by
  go_enter Tryd.func76, Tryd.ntmps76
  go_wp2_with (go_at_call 61; refine (stopped_some _ _ _ _ h.lt h.c3 h.c4).mono ?_; rintro e1 w1 ⟨rfl, hb1⟩)
  go_ret
  exact ⟨rfl, hb1⟩
theorem peek_off (w : World) (b : Nat) (t : ByteArray) (k bs e at' n : Int) (h : Rd w b t k bs e at') (he : (e != 0) = true) :
    Calls Tryd.prog 80 #[.pointer (some ⟨b, 0, none⟩), .int .i64 n] w fun e' w' => e' = .returned (.string ⟨#[]⟩) ∧ Below w.heap.size w w' := by
  go_enter Tryd.func80, Tryd.ntmps80
  go_wp2_with (go_at_call 61; refine (stopped_some _ _ _ _ h.lt h.c3 h.c4).mono ?_; rintro e1 w1 ⟨rfl, hb1⟩)
  go_ret
  exact ⟨rfl, hb1⟩
theorem rd_new (w : World) (t : ByteArray) (bs : Int) : Rd (w.alloc (.cells #[.string t, .int .i64 0, .int .i64 bs, .int .i64 0, .int .i64 0] 84)) w.heap.size t 0 bs 0 0 := by
  have F : ∀ o, (w.alloc (.cells #[.string t, .int .i64 0, .int .i64 bs, .int .i64 0, .int .i64 0] 84)).frozen? ⟨w.heap.size, o, none⟩ = false := fun o => by
    have := World.frozen?_alloc_mark w #[.string t, .int .i64 0, .int .i64 bs, .int .i64 0, .int .i64 0] 84 0 0 o
    rw [this]; simp
  refine ⟨by simp, ?_, ?_, ?_, ?_, ?_, F _, F _, F _⟩ <;> rw [World.cell?_alloc_mark] <;> rfl
theorem inner_any (t : ByteArray) (bs : Int) (w : World) :
    Calls Tryd.prog 46 #[.string t, .int .i64 bs] w fun e' w' => e' = .returned (.pointer (some ⟨w.heap.size, 0, none⟩)) ∧ Rd w' w.heap.size t 0 (max bs 0) 0 0 ∧ Below w.heap.size w w' := by
  by_cases h0 : bs < 0
  · have hm : Hid (max bs 0 = 0) := Lib.hid (by omega)
    rw [hm.out]
    go_enter Tryd.func46, Tryd.ntmps46
    go_wp2
    go_ret
    exact ⟨rfl, rd_new w t 0, (Below.refl _ _).alloc (Nat.le_refl _) _⟩
  · have hm : Hid (max bs 0 = bs) := Lib.hid (by omega)
    rw [hm.out]
    go_enter Tryd.func46, Tryd.ntmps46
    go_wp2
    go_ret
    exact ⟨rfl, rd_new w t bs, (Below.refl _ _).alloc (Nat.le_refl _) _⟩
theorem read_any (t : ByteArray) (w : World) :
    Calls Tryd.prog 38 #[.string t] w fun e' w' => e' = .returned (.pointer (some ⟨w.heap.size, 0, none⟩)) ∧ Rd w' w.heap.size t 0 0 0 0 ∧ Below w.heap.size w w' := by
  go_enter Tryd.func38, Tryd.ntmps38
  go_wp2_with (go_at_call 46; refine (inner_any t 0 _).mono ?_; rintro e1 w1 ⟨rfl, hR, hb⟩)
  go_ret
  exact ⟨rfl, hR, hb⟩
end Go.Proofs.YtmogjimiiadmmaaDoor.oct
