/- Layer 13: the walks of FramePrints, FrameSizes, FrameCuts, of any frame. -/
import Derived.Test.YtkhajafjieofhaaFn9
namespace Go.Proofs.Ytkhajafjieofhaa.fn
open Go.RowKit Go.Lib
open Go.Proofs.Ytkhajafjieofhaa.fr
set_option linter.unusedVariables false
theorem fr_of (id bd : ByteArray) (s m g : Int) (s0 : 0 ≤ s) (s1 : s ≤ 255) (m0 : 0 ≤ m) (m1 : m ≤ 255) (g0 : 0 ≤ g) (g1 : g ≤ 255) :
    ∃ f : Fr, f.id.length = id.size ∧ f.bd.length = bd.size ∧ ∀ a : Int, Value.agg #[.string id, .int .u8 s, .int .u8 m, .int .u8 g, .string bd, .int .i64 a] = vF f a := by
  obtain ⟨x, rfl⟩ := u8_of s0 s1
  obtain ⟨y, rfl⟩ := u8_of m0 m1
  obtain ⟨z, rfl⟩ := u8_of g0 g1
  exact ⟨⟨id.data.toList, x, y, z, bd.data.toList⟩, un.size_list id, un.size_list bd, fun a => by unfold vF; simp only [un.bs_back]⟩
theorem prints_walk {K : World → Prop} (L : Fm K) (v : Int) (id : ByteArray) (s m g : Int) (bd : ByteArray) (a : Int) (r : ByteArray) (w : World) (hK : K w) (hi : id.size ≤ maxLen) (hb : bd.size ≤ maxLen) (hr : r.size ≤ maxLen) (s0 : 0 ≤ s) (s1 : s ≤ 255) (m0 : 0 ≤ m) (m1 : m ≤ 255) (g0 : 0 ≤ g) (g1 : g ≤ 255) :
    Calls Try.prog 4 #[.int .i64 v, .agg #[.string id, .int .u8 s, .int .u8 m, .int .u8 g, .string bd, .int .i64 a], .string r] w fun e w' => e = .returned (.bool true) ∧ Below w.heap.size w w' := by
  obtain ⟨f, e1, e2, e3⟩ := fr_of id bd s m g s0 s1 m0 m1 g0 g1
  rw [e3 a]
  by_cases h : 1000 < f.bd.length ∨ 100 < f.id.length ∨ 100 < r.size
  · exact prints_out L v f a r w hK h (by omega) (by omega) hr
  · cases hk : okF v f with
    | false => exact prints_bad L v f a r w hK (by omega) (by omega) (by omega) hk
    | true => exact prints_good L v f a r w hK (by omega) (by omega) (by omega) hk
theorem cuts_walk {K : World → Prop} (L : Fm K) (v : Int) (id : ByteArray) (s m g : Int) (bd : ByteArray) (a c : Int) (w : World) (hK : K w) (hi : id.size ≤ maxLen) (hb : bd.size ≤ maxLen) (s0 : 0 ≤ s) (s1 : s ≤ 255) (m0 : 0 ≤ m) (m1 : m ≤ 255) (g0 : 0 ≤ g) (g1 : g ≤ 255) (c0 : 0 ≤ c) (c1 : c ≤ 65535) :
    Calls Try.prog 6 #[.int .i64 v, .agg #[.string id, .int .u8 s, .int .u8 m, .int .u8 g, .string bd, .int .i64 a], .int .u16 c] w fun e w' => e = .returned (.bool true) ∧ Below w.heap.size w w' := by
  obtain ⟨f, e1, e2, e3⟩ := fr_of id bd s m g s0 s1 m0 m1 g0 g1
  rw [e3 a]
  by_cases h : 1000 < f.bd.length ∨ 100 < f.id.length
  · exact cuts_out L v f a c w hK h (by omega) (by omega)
  · cases hk : okF v f with
    | false => exact cuts_bad L v f a c w hK (by omega) (by omega) hk
    | true => exact cuts_good L v f a c w hK (by omega) (by omega) hk c0 c1
theorem sizes_walk {K : World → Prop} (L : Fm K) (v : Int) (id : ByteArray) (s m g : Int) (bd : ByteArray) (a : Int) (w : World) (hK : K w) (hi : id.size ≤ maxLen) (hb : bd.size ≤ maxLen) (s0 : 0 ≤ s) (s1 : s ≤ 255) (m0 : 0 ≤ m) (m1 : m ≤ 255) (g0 : 0 ≤ g) (g1 : g ≤ 255) :
    Calls Try.prog 5 #[.int .i64 v, .agg #[.string id, .int .u8 s, .int .u8 m, .int .u8 g, .string bd, .int .i64 a]] w fun e w' => e = .returned (.bool true) ∧ Below w.heap.size w w' := by
  obtain ⟨f, e1, e2, e3⟩ := fr_of id bd s m g s0 s1 m0 m1 g0 g1
  rw [e3 a]
  by_cases h : 1000 < f.bd.length ∨ 100 < f.id.length
  · exact sizes_out L v f a w hK h (by omega) (by omega)
  · cases hk : okF v f with
    | false => exact sizes_bad L v f a w hK (by omega) (by omega) hk
    | true =>
      rcases v_okF hk with rfl | rfl | rfl
      · exact sizes_2 L f a w hK (by omega) (by omega) hk (v2_flags f.fm.toNat).2.2
      · exact sizes_3 L f a w hK (by omega) (by omega) hk (v3_flags f.fm.toNat).2
      · cases hs : sprd 4 f.fm.toNat with
        | false => exact sizes_4n L f a w hK (by omega) (by omega) hk hs
        | true => exact sizes_4s L f a w hK (by omega) (by omega) hk hs
end Go.Proofs.Ytkhajafjieofhaa.fn
