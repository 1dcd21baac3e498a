/- Rows of codes and signs, one behind the other; the pairs of such rows; rows by rising codes out of rows apart; a table over another one; rows in memory of the call's own. -/
import Derived.Test.YtiigknimfibdpaaGreatDoorZ3
import Derived.Sort.Statements
import Derived.WalkSmall
import Derived.OneCell
namespace Go.Proofs.YtiigknimfibdpaaGreatDoor.tb
open Go.RowKit Go.Lib
set_option linter.unusedVariables false
/-- A row. -/
structure Rw where
  f : Int
  t : Int
  c : Int
instance : Inhabited Rw := ⟨⟨0, 0, 0⟩⟩
/-- A row as the code holds it. -/
structure Rw.ok (r : Rw) : Prop where
  f0 : 0 ≤ r.f
  c1 : 1 ≤ r.c
  f1 : r.f + r.c ≤ 1048576
  t0 : 0 ≤ r.t
  t1 : r.t + r.c ≤ 1114112
def rp (r : Rw) : List (Int × Int) := sqp r.f r.t r.c.toNat
def rps (l : List Rw) : List (Int × Int) := l.flatMap rp
theorem sqp_iff (f t : Int) : ∀ (n : Nat) (q : Int × Int), q ∈ sqp f t n ↔ f ≤ q.1 ∧ q.1 < f + n ∧ q.2 = t + (q.1 - f)
  | 0, q => by simp [sqp]; omega
  | n + 1, q => by
    have e : sqp f t (n + 1) = sqp f t n ++ [(f + n, t + n)] := rfl
    rw [e, List.mem_append, sqp_iff f t n q, List.mem_singleton]
    constructor
    · rintro (⟨h1, h2, h3⟩ | rfl)
      · exact ⟨h1, by push_cast; omega, h3⟩
      · refine ⟨?_, ?_, ?_⟩ <;> simp <;> omega
    · rintro ⟨h1, h2, h3⟩
      push_cast at h2
      by_cases h : q.1 < f + n
      · exact .inl ⟨h1, h, h3⟩
      · exact .inr (Prod.ext (by simp; omega) (by simp; omega))
theorem rp_iff (r : Rw) (q : Int × Int) : q ∈ rp r ↔ r.f ≤ q.1 ∧ q.1 < r.f + r.c ∧ q.2 = r.t + (q.1 - r.f) := by
  unfold rp
  rw [sqp_iff]
  constructor <;> rintro ⟨h1, h2, h3⟩ <;> exact ⟨h1, by omega, h3⟩
theorem rps_iff (l : List Rw) (q : Int × Int) : q ∈ rps l ↔ ∃ r ∈ l, r.f ≤ q.1 ∧ q.1 < r.f + r.c ∧ q.2 = r.t + (q.1 - r.f) := by
  unfold rps
  rw [List.mem_flatMap]
  constructor <;> rintro ⟨r, h1, h2⟩ <;> exact ⟨r, h1, by rwa [rp_iff] at *⟩
theorem rps_cons (r : Rw) (l : List Rw) : rps (r :: l) = rp r ++ rps l := rfl
theorem rps_app (l m : List Rw) : rps (l ++ m) = rps l ++ rps m := by simp [rps]
theorem sqp_sorted (f t : Int) : ∀ n : Nat, Srt (sqp f t n)
  | 0 => Srt.nil
  | n + 1 => List.pairwise_append.2 ⟨sqp_sorted f t n, by simp, fun a ha b hb => by
      have := (sqp_iff f t n a).1 ha
      simp at hb
      subst hb
      show a.1 < f + n
      omega⟩
/-- Rows by rising codes. -/
def Dis (l : List Rw) : Prop := l.Pairwise (fun a b => a.f + a.c ≤ b.f)
theorem rps_srt : ∀ (l : List Rw), Dis l → Srt (rps l)
  | [], _ => Srt.nil
  | r :: l, h => by
    have h := List.pairwise_cons.1 h
    refine List.pairwise_append.2 ⟨sqp_sorted _ _ _, rps_srt l h.2, fun a ha b hb => ?_⟩
    obtain ⟨s, hs, h1, _⟩ := (rps_iff _ _).1 hb
    have := (rp_iff _ _).1 ha
    have := h.1 s hs
    omega
/-- A row has a code. -/
def has (r : Rw) (c : Int) : Prop := r.f ≤ c ∧ c < r.f + r.c
instance (r : Rw) (c : Int) : Decidable (has r c) := by unfold has; infer_instance
theorem lk_some {l : List Rw} (hd : Dis l) {r : Rw} (hr : r ∈ l) {c : Int} (h : has r c) : lk (rps l) c = some (r.t + (c - r.f)) :=
  (lk_mem (rps_srt l hd) _ _).2 ((rps_iff _ _).2 ⟨r, hr, h.1, h.2, rfl⟩)
theorem lk_no {l : List Rw} {c : Int} (h : ∀ r ∈ l, ¬ has r c) : lk (rps l) c = none := by
  rw [lk_none]
  intro q hq e
  obtain ⟨r, hr, h1, h2, _⟩ := (rps_iff _ _).1 hq
  exact h r hr (by unfold has; omega)
theorem rev_cons (q : Int × Int) (l : List (Int × Int)) (p : Int) : rev (q :: l) p = if q.2 = p then q.1 else rev l p := rfl
theorem rev_app (l m : List (Int × Int)) (p : Int) : rev (l ++ m) p = if (∃ q ∈ l, q.2 = p) then rev l p else rev m p := by
  induction l with
  | nil => simp
  | cons q l ih =>
    rw [List.cons_append, rev_cons, rev_cons]
    by_cases h : q.2 = p
    · rw [if_pos h, if_pos ⟨q, List.mem_cons_self .., h⟩, if_pos h]
    · rw [if_neg h, if_neg h, ih]
      by_cases h2 : ∃ q ∈ l, q.2 = p
      · rw [if_pos h2, if_pos (by obtain ⟨q2, a, b⟩ := h2; exact ⟨q2, List.mem_cons_of_mem _ a, b⟩)]
      · rw [if_neg h2, if_neg]
        rintro ⟨q2, a, b⟩
        rcases List.mem_cons.1 a with rfl | a
        · exact h b
        · exact h2 ⟨q2, a, b⟩
theorem rev_in {l : List (Int × Int)} {p : Int} : ∀ {q : Int × Int}, q ∈ l → q.2 = p → (∀ r ∈ l, r.2 = p → r.1 = q.1) → rev l p = q.1 := by
  induction l with
  | nil => intro q h; cases h
  | cons r l ih =>
    intro q h1 h2 h3
    unfold rev
    by_cases h : r.2 = p
    · rw [if_pos h]; exact h3 r (List.mem_cons_self ..) h
    · rw [if_neg h]
      rcases List.mem_cons.1 h1 with rfl | h1
      · exact absurd h2 h
      · exact ih h1 h2 (fun s hs => h3 s (List.mem_cons_of_mem _ hs))
/-- A row tells a sign. -/
def tel (r : Rw) (p : Int) : Bool := decide (r.t ≤ p) && decide (p ≤ r.t + r.c - 1)
theorem tel_iff (r : Rw) (p : Int) : tel r p = true ↔ r.t ≤ p ∧ p < r.t + r.c := by unfold tel; simp; omega
/-- The least code of a sign, by rows. -/
theorem rev_rps : ∀ (l : List Rw) (p : Int), rev (rps l) p = match l.find? (fun r => tel r p) with | some r => r.f + (p - r.t) | none => -1
  | [], p => rfl
  | r :: l, p => by
    rw [rps_cons, rev_app, List.find?_cons]
    cases h : tel r p with
    | true =>
      have h1 := (tel_iff r p).1 h
      have hm : (r.f + (p - r.t), p) ∈ rp r := (rp_iff _ _).2 ⟨by simp; omega, by simp; omega, by simp; omega⟩
      rw [if_pos ⟨_, hm, rfl⟩]
      exact rev_in hm rfl (fun s hs h => by have := (rp_iff _ _).1 hs; simp; omega)
    | false =>
      rw [if_neg, rev_rps l p]
      rintro ⟨q, hq, rfl⟩
      have h1 := (rp_iff _ _).1 hq
      have : tel r q.2 = true := (tel_iff _ _).2 (by omega)
      rw [this] at h; cases h
/-- How many codes rows have. -/
def siz : List Rw → Int
  | [] => 0
  | r :: l => r.c + siz l
theorem siz_len : ∀ (l : List Rw), (∀ r ∈ l, r.ok) → ((rps l).length : Int) = siz l
  | [], _ => rfl
  | r :: l, h => by
    have h1 := (h r (List.mem_cons_self ..)).c1
    rw [rps_cons, List.length_append]
    unfold siz rp
    rw [sqp_len]
    have := siz_len l (fun s hs => h s (List.mem_cons_of_mem _ hs))
    push_cast
    omega
theorem len_siz : ∀ (l : List Rw), (∀ r ∈ l, r.ok) → l.length ≤ (rps l).length
  | [], _ => Nat.le_refl _
  | r :: l, h => by
    have h1 := (h r (List.mem_cons_self ..)).c1
    rw [rps_cons, List.length_append]
    unfold rp
    rw [sqp_len]
    have := len_siz l (fun s hs => h s (List.mem_cons_of_mem _ hs))
    simp only [List.length_cons]
    omega
theorem siz_app (l m : List Rw) : siz (l ++ m) = siz l + siz m := by
  induction l with
  | nil => simp [siz]
  | cons r l ih => simp only [List.cons_append, siz, ih]; omega
/-- Two rows have no code both. -/
def Apart (a b : Rw) : Prop := a.f + a.c ≤ b.f ∨ b.f + b.c ≤ a.f
theorem Apart.symm {a b : Rw} (h : Apart a b) : Apart b a := Or.symm h
/-- What of a row no row of a table has. -/
def bes : List Rw → Rw → List Rw
  | [], r => if r.c > 0 then [r] else []
  | o :: T, r => if r.f + r.c ≤ o.f then (if r.c > 0 then [r] else []) else
      (if o.f > r.f then [⟨r.f, r.t, o.f - r.f⟩] else []) ++ bes T ⟨min (o.f + o.c) (r.f + r.c), r.t + (min (o.f + o.c) (r.f + r.c) - r.f), r.f + r.c - min (o.f + o.c) (r.f + r.c)⟩
/-- What bes answers: rows of the row, none of which has a code of the table's, and all that is left. -/
theorem bes_spec : ∀ (T : List Rw) (r : Rw), Dis T → (∀ o ∈ T, o.ok) → (∀ o ∈ T, r.f < o.f + o.c ∧ (0 < r.c ∨ r.f ≤ o.f)) → 0 ≤ r.f → 0 ≤ r.c → r.f + r.c ≤ 1048576 → 0 ≤ r.t → r.t + r.c ≤ 1114112 →
    (∀ s ∈ bes T r, s.ok ∧ r.f ≤ s.f ∧ s.f + s.c ≤ r.f + r.c ∧ s.t - s.f = r.t - r.f ∧ ∀ o ∈ T, Apart o s) ∧ Dis (bes T r) ∧ ∀ c, has r c → (∀ o ∈ T, ¬ has o c) → ∃ s ∈ bes T r, has s c
  | [], r, hd, ho, hi, f0, c0, f1, t0, t1 => by
    unfold bes
    by_cases h : r.c > 0
    · rw [if_pos h]
      refine ⟨fun s hs => ?_, List.pairwise_singleton _ _, fun c hc _ => ⟨r, List.mem_singleton.2 rfl, hc⟩⟩
      rw [List.mem_singleton] at hs
      subst hs
      exact ⟨⟨f0, by omega, f1, t0, t1⟩, by omega, by omega, by omega, fun _ h => by cases h⟩
    · rw [if_neg h]
      exact ⟨fun s hs => (by cases hs), List.Pairwise.nil, fun c hc _ => by unfold has at hc; omega⟩
  | o :: T, r, hd, ho, hi, f0, c0, f1, t0, t1 => by
    have hd' := List.pairwise_cons.1 hd
    have ho1 := ho o (List.mem_cons_self ..)
    have hi1 := hi o (List.mem_cons_self ..)
    unfold bes
    by_cases hb : r.f + r.c ≤ o.f
    · rw [if_pos hb]
      by_cases h : r.c > 0
      · rw [if_pos h]
        refine ⟨fun s hs => ?_, List.pairwise_singleton _ _, fun c hc _ => ⟨r, List.mem_singleton.2 rfl, hc⟩⟩
        rw [List.mem_singleton] at hs
        subst hs
        refine ⟨⟨f0, by omega, f1, t0, t1⟩, by omega, by omega, by omega, fun p hp => ?_⟩
        rcases List.mem_cons.1 hp with rfl | hp
        · exact .inr hb
        · have := hd'.1 p hp; have := ho1.c1; exact .inr (by omega)
      · rw [if_neg h]
        exact ⟨fun s hs => (by cases hs), List.Pairwise.nil, fun c hc _ => by unfold has at hc; omega⟩
    · rw [if_neg hb]
      obtain ⟨E, hE⟩ : ∃ E, E = min (o.f + o.c) (r.f + r.c) := ⟨_, rfl⟩
      rw [← hE]
      have c1 := ho1.c1
      have ih := bes_spec T ⟨E, r.t + (E - r.f), r.f + r.c - E⟩ hd'.2 (fun p hp => ho p (List.mem_cons_of_mem _ hp)) (fun p hp => by
        have := hd'.1 p hp
        have := (ho p (List.mem_cons_of_mem _ hp)).c1
        show E < p.f + p.c ∧ (0 < r.f + r.c - E ∨ E ≤ p.f)
        omega) (by show 0 ≤ E; omega) (by show 0 ≤ r.f + r.c - E; omega) (by show E + (r.f + r.c - E) ≤ _; omega) (by show 0 ≤ r.t + (E - r.f); omega) (by show r.t + (E - r.f) + (r.f + r.c - E) ≤ _; omega)
      obtain ⟨i1, i2, i3⟩ := ih
      simp only at i1 i3
      refine ⟨fun s hs => ?_, ?_, fun c hc hn => ?_⟩
      · rcases List.mem_append.1 hs with hs | hs
        · split at hs
          · rw [List.mem_singleton] at hs
            subst hs
            refine ⟨⟨f0, by show 1 ≤ o.f - r.f; omega, by show r.f + (o.f - r.f) ≤ _; omega, t0, by show r.t + (o.f - r.f) ≤ _; omega⟩, by show r.f ≤ r.f; omega, by show r.f + (o.f - r.f) ≤ _; omega, by show r.t - r.f = _; omega, fun p hp => ?_⟩
            rcases List.mem_cons.1 hp with rfl | hp
            · exact .inr (by show r.f + (p.f - r.f) ≤ p.f; omega)
            · have := hd'.1 p hp; exact .inr (by show r.f + (o.f - r.f) ≤ p.f; omega)
          · cases hs
        · obtain ⟨a1, a2, a3, a4, a5⟩ := i1 s hs
          refine ⟨a1, by omega, by omega, by omega, fun p hp => ?_⟩
          rcases List.mem_cons.1 hp with rfl | hp
          · by_cases h : p.f + p.c ≤ r.f + r.c
            · exact .inl (by omega)
            · have := a1.c1; exact .inl (by omega)
          · exact a5 p hp
      · refine List.pairwise_append.2 ⟨?_, i2, fun a ha b hb2 => ?_⟩
        · split
          · exact List.pairwise_singleton _ _
          · exact List.Pairwise.nil
        · split at ha
          · rw [List.mem_singleton] at ha
            subst ha
            have := (i1 b hb2).2.1
            show r.f + (o.f - r.f) ≤ b.f
            omega
          · cases ha
      · unfold has at hc
        have hn1 := hn o (List.mem_cons_self ..)
        unfold has at hn1
        by_cases h : c < o.f
        · refine ⟨⟨r.f, r.t, o.f - r.f⟩, List.mem_append.2 (.inl ?_), ?_⟩
          · rw [if_pos (by omega)]; exact List.mem_singleton.2 rfl
          · unfold has; simp only; omega
        · obtain ⟨s, hs, h2⟩ := i3 c (by unfold has; simp only; omega) (fun p hp => hn p (List.mem_cons_of_mem _ hp))
          exact ⟨s, List.mem_append.2 (.inr hs), h2⟩
end Go.Proofs.YtiigknimfibdpaaGreatDoor.tb
namespace Go.Proofs.YtiigknimfibdpaaGreatDoor.tb
open Go.RowKit Go.Lib
set_option linter.unusedVariables false
theorem dis_apart {l : List Rw} (h : Dis l) : l.Pairwise Apart := List.Pairwise.imp (fun h => Or.inl h) h
/-- A row that was put in order. -/
theorem sorted_dis {l m : List Rw} (hp : m.Perm l) (ha : l.Pairwise Apart) (ho : ∀ r ∈ l, r.ok) (hs : m.Pairwise (fun a b => a.f ≤ b.f)) : Dis m ∧ (∀ r ∈ m, r.ok) ∧ ∀ q, q ∈ rps m ↔ q ∈ rps l := by
  have ha' : m.Pairwise Apart := (hp.pairwise_iff (fun h => Apart.symm h)).2 ha
  have ho' : ∀ r ∈ m, r.ok := fun r hr => ho r (hp.mem_iff.1 hr)
  refine ⟨?_, ho', fun q => ?_⟩
  · refine (hs.and ha').imp_of_mem fun {a b} h1 h2 h => ?_
    have c1 := (ho' _ h1).c1
    have c2 := (ho' _ h2).c1
    rcases h.2 with h3 | h3
    · exact h3
    · have := h.1; omega
  · rw [rps_iff, rps_iff]
    constructor <;> rintro ⟨r, hr, h⟩
    · exact ⟨r, hp.mem_iff.1 hr, h⟩
    · exact ⟨r, hp.mem_iff.2 hr, h⟩
/-- The same of the sort's answer. -/
theorem sorted_arr {d d' : Array Rw} (hp : Go.Sort.PermIn 0 d.size d d') (hs : Go.Sort.SortedIn (fun a b : Rw => decide (a.f < b.f)) 0 d.size d') :
    d'.size = d.size ∧ d'.toList.Perm d.toList ∧ d'.toList.Pairwise (fun a b => a.f ≤ b.f) := by
  obtain ⟨h1, _, h3⟩ := hp
  have e1 : d.extract 0 d.size = d := by simp
  have e2 : d'.extract 0 d.size = d' := by rw [← h1]; simp
  rw [e1, e2] at h3
  refine ⟨h1, h3, ?_⟩
  rw [List.pairwise_iff_getElem]
  intro i j hi hj hij
  simp at hi hj
  have := hs i j (Nat.zero_le _) hij (by omega)
  rw [getElem!_pos d' i hi, getElem!_pos d' j hj] at this
  simp at this
  simpa using this
/-- What a row has beside a table. -/
def besL (L : List Rw) (r : Rw) : List Rw := bes (L.dropWhile (fun o => decide (o.f + o.c ≤ r.f))) r
theorem drop_while {L : List Rw} {x : Int} (i : Nat) (hi : i ≤ L.length) (h1 : ∀ j (h : j < L.length), j < i → L[j].f + L[j].c ≤ x) (h2 : ∀ h : i < L.length, x < L[i].f + L[i].c) : L.drop i = L.dropWhile (fun o => decide (o.f + o.c ≤ x)) := by
  induction L generalizing i with
  | nil => simp
  | cons o L ih =>
    cases i with
    | zero =>
      have := h2 (by simp)
      simp only [List.getElem_cons_zero] at this
      rw [List.dropWhile_cons_of_neg (by simp; omega)]
      rfl
    | succ i =>
      have := h1 0 (by simp) (by omega)
      simp only [List.getElem_cons_zero] at this
      rw [List.dropWhile_cons_of_pos (by simp; omega), List.drop_succ_cons]
      refine ih i (by simp at hi; omega) (fun j hj hji => ?_) (fun h => ?_)
      · have := h1 (j + 1) (by simp; omega) (by omega)
        simpa using this
      · have := h2 (by simp; omega)
        simpa using this
theorem bes_len : ∀ (T : List Rw) (r : Rw), (bes T r).length ≤ T.length + 1
  | [], r => by unfold bes; split <;> simp
  | o :: T, r => by
    unfold bes
    split
    · split <;> simp
    · rw [List.length_append]
      have := bes_len T ⟨min (o.f + o.c) (r.f + r.c), r.t + (min (o.f + o.c) (r.f + r.c) - r.f), r.f + r.c - min (o.f + o.c) (r.f + r.c)⟩
      have h2 : (if o.f > r.f then [(⟨r.f, r.t, o.f - r.f⟩ : Rw)] else []).length ≤ 1 := by split <;> simp
      simp only [List.length_cons]
      omega
theorem besL_len (L : List Rw) (r : Rw) : (besL L r).length ≤ L.length + 1 := by
  have h1 := bes_len (L.dropWhile (fun o => decide (o.f + o.c ≤ r.f))) r
  have h2 := (List.dropWhile_suffix (l := L) (fun o => decide (o.f + o.c ≤ r.f))).length_le
  unfold besL
  omega
theorem dw_head {L : List Rw} {x : Int} (hd : Dis L) (ho : ∀ r ∈ L, r.ok) : ∀ o ∈ L.dropWhile (fun o => decide (o.f + o.c ≤ x)), x < o.f + o.c := by
  induction L with
  | nil => simp
  | cons r L ih =>
    have hd' := List.pairwise_cons.1 hd
    by_cases h : r.f + r.c ≤ x
    · rw [List.dropWhile_cons_of_pos (by simpa using h)]
      exact ih hd'.2 (fun s hs => ho s (List.mem_cons_of_mem _ hs))
    · rw [List.dropWhile_cons_of_neg (by simpa using h)]
      intro o hm
      rcases List.mem_cons.1 hm with rfl | hm
      · omega
      · have := hd'.1 o hm
        have := (ho o (List.mem_cons_of_mem _ hm)).c1
        omega
theorem dw_out {L : List Rw} {x : Int} : ∀ o ∈ L, o ∈ L.dropWhile (fun o => decide (o.f + o.c ≤ x)) ∨ o.f + o.c ≤ x := by
  induction L with
  | nil => simp
  | cons r L ih =>
    intro o hm
    by_cases h : r.f + r.c ≤ x
    · rw [List.dropWhile_cons_of_pos (by simpa using h)]
      rcases List.mem_cons.1 hm with rfl | hm
      · exact .inr h
      · exact ih o hm
    · rw [List.dropWhile_cons_of_neg (by simpa using h)]
      exact .inl hm
theorem besL_spec {L : List Rw} {r : Rw} (hd : Dis L) (ho : ∀ o ∈ L, o.ok) (hr : r.ok) :
    (∀ s ∈ besL L r, s.ok ∧ r.f ≤ s.f ∧ s.f + s.c ≤ r.f + r.c ∧ s.t - s.f = r.t - r.f ∧ ∀ o ∈ L, Apart o s) ∧ Dis (besL L r) ∧ ∀ c, has r c → (∀ o ∈ L, ¬ has o c) → ∃ s ∈ besL L r, has s c := by
  have hsub := (List.dropWhile_suffix (l := L) (fun o => decide (o.f + o.c ≤ r.f))).sublist
  have c1 := hr.c1
  obtain ⟨a, b, c⟩ := bes_spec (L.dropWhile (fun o => decide (o.f + o.c ≤ r.f))) r (List.Pairwise.sublist hsub hd) (fun o h => ho o (hsub.subset h)) (fun o h => ⟨dw_head hd ho o h, .inl (by omega)⟩) hr.f0 (by omega) hr.f1 hr.t0 hr.t1
  refine ⟨fun s hs => ?_, b, fun x h1 h2 => c x h1 (fun o h => h2 o (hsub.subset h))⟩
  obtain ⟨a1, a2, a3, a4, a5⟩ := a s hs
  refine ⟨a1, a2, a3, a4, fun o h => ?_⟩
  rcases dw_out (x := r.f) o h with h | h
  · exact a5 o h
  · exact .inl (by omega)
/-- All rows of a table over another one. -/
def overR (L M : List Rw) : List Rw := L ++ M.flatMap (besL L)
theorem overR_snoc (L M : List Rw) (r : Rw) : overR L (M ++ [r]) = overR L M ++ besL L r := by simp [overR]
theorem overR_len (L M : List Rw) : (overR L M).length ≤ L.length + M.length * (L.length + 1) := by
  unfold overR
  rw [List.length_append]
  have : ∀ M : List Rw, (M.flatMap (besL L)).length ≤ M.length * (L.length + 1) := by
    intro M
    induction M with
    | nil => simp
    | cons r M ih =>
      rw [List.flatMap_cons, List.length_append, List.length_cons, Nat.add_mul]
      have := besL_len L r
      omega
  have := this M
  omega
theorem overR_spec {L M : List Rw} (hd : Dis L) (ho : ∀ o ∈ L, o.ok) (hm : Dis M) (hm2 : ∀ o ∈ M, o.ok) : (overR L M).Pairwise Apart ∧ ∀ r ∈ overR L M, r.ok := by
  have hin : ∀ s ∈ M.flatMap (besL L), ∃ r ∈ M, s ∈ besL L r := fun s hs => List.mem_flatMap.1 hs
  refine ⟨List.pairwise_append.2 ⟨dis_apart hd, ?_, fun a ha b hb => ?_⟩, fun r hr => ?_⟩
  · rw [List.pairwise_flatMap]
    refine ⟨fun r hr => dis_apart (besL_spec hd ho (hm2 r hr)).2.1, List.Pairwise.imp_of_mem (fun {a b} ha hb h x hx y hy => ?_) hm⟩
    have h1 := (besL_spec hd ho (hm2 a ha)).1 x hx
    have h2 := (besL_spec hd ho (hm2 b hb)).1 y hy
    exact .inl (by omega)
  · obtain ⟨r, hr, hs⟩ := hin b hb
    exact ((besL_spec hd ho (hm2 r hr)).1 b hs).2.2.2.2 a ha
  · rcases List.mem_append.1 hr with h | h
    · exact ho r h
    · obtain ⟨s, hs, h2⟩ := hin r h
      exact ((besL_spec hd ho (hm2 s hs)).1 r h2).1
theorem over_rows {L M S : List Rw} (hd : Dis L) (ho : ∀ o ∈ L, o.ok) (hm : Dis M) (hm2 : ∀ o ∈ M, o.ok) (hS : Dis S) (hp : S.Perm (overR L M)) : rps S = over (rps L) (rps M) := by
  obtain ⟨o1, o2⟩ := over_lk (rps_srt L hd) (rps_srt M hm)
  refine srt_lk (rps_srt S hS) o1 fun c => ?_
  rw [o2]
  have hmem : ∀ r, r ∈ S ↔ r ∈ overR L M := fun r => hp.mem_iff
  by_cases h1 : ∃ r ∈ L, has r c
  · obtain ⟨r, hr, h⟩ := h1
    rw [lk_some hd hr h, lk_some hS ((hmem r).2 (List.mem_append.2 (.inl hr))) h]
    rfl
  · have n1 : ∀ r ∈ L, ¬ has r c := fun r hr h => h1 ⟨r, hr, h⟩
    rw [lk_no n1]
    by_cases h2 : ∃ r ∈ M, has r c
    · obtain ⟨r, hr, h⟩ := h2
      obtain ⟨s1, _, s3⟩ := besL_spec hd ho (hm2 r hr)
      obtain ⟨s, hs, hsc⟩ := s3 c h n1
      have := (s1 s hs).2.2.2.1
      rw [lk_some hm hr h, lk_some hS ((hmem s).2 (List.mem_append.2 (.inr (List.mem_flatMap.2 ⟨r, hr, hs⟩)))) hsc]
      show some _ = some _
      congr 1
      omega
    · have n2 : ∀ r ∈ M, ¬ has r c := fun r hr h => h2 ⟨r, hr, h⟩
      rw [lk_no n2, lk_no]
      · rfl
      · intro r hr h
        rcases List.mem_append.1 ((hmem r).1 hr) with h3 | h3
        · exact n1 r h3 h
        · obtain ⟨s, hs, h4⟩ := List.mem_flatMap.1 h3
          have := (besL_spec hd ho (hm2 s hs)).1 r h4
          exact n2 s hs (by unfold has at *; omega)
/-- More rows beside rows: the pairs of both. -/
theorem join_rows {R more : List Rw} {all : List (Int × Int)} (hs : Srt all) (hq : ∀ q, q ∈ rps R ↔ q ∈ all) (hd : Dis more) (ho : ∀ r ∈ more, r.ok) (ha : R.Pairwise Apart) (hoR : ∀ r ∈ R, r.ok) (hn : ∀ q ∈ rps more, lk all q.1 = none) :
    ∃ r, join all (rps more) = some r ∧ Srt r ∧ (∀ q, q ∈ rps (R ++ more) ↔ q ∈ r) ∧ (R ++ more).Pairwise Apart := by
  have hsm := rps_srt more hd
  have hnd : ((rps more).map (·.1)).Nodup := by
    unfold List.Nodup
    rw [List.pairwise_map]
    exact hsm.imp fun h => by omega
  obtain ⟨p1, p2⟩ := puts_spec (rps more) all hs hnd hn
  refine ⟨puts all (rps more), ?_, p1, fun q => ?_, List.pairwise_append.2 ⟨ha, dis_apart hd, fun a h1 b h2 => ?_⟩⟩
  · unfold join
    rw [if_pos]
    rw [List.all_eq_true]
    intro q hq
    simp [(find_neg all q.1).2 (hn q hq)]
  · rw [p2, rps_app, List.mem_append, hq]
  · have c2 := (ho b h2).c1
    apply Classical.byContradiction
    intro hna
    unfold Apart at hna
    by_cases hle : a.f ≤ b.f
    · have hx : (b.f, b.t + (b.f - b.f)) ∈ rps more := (rps_iff _ _).2 ⟨b, h2, by simp; omega⟩
      have hy : (b.f, a.t + (b.f - a.f)) ∈ rps R := (rps_iff _ _).2 ⟨a, h1, by simp; omega⟩
      exact (lk_none _).1 (hn _ hx) _ ((hq _).1 hy) rfl
    · have hx : (a.f, b.t + (a.f - b.f)) ∈ rps more := (rps_iff _ _).2 ⟨b, h2, by simp; omega⟩
      have hc := (hoR a h1).c1
      have hy : (a.f, a.t + (a.f - a.f)) ∈ rps R := (rps_iff _ _).2 ⟨a, h1, by simp; omega⟩
      exact (lk_none _).1 (hn _ hx) _ ((hq _).1 hy) rfl
end Go.Proofs.YtiigknimfibdpaaGreatDoor.tb
namespace Go.Proofs.YtiigknimfibdpaaGreatDoor.tb
open Go.RowKit Go.Lib
set_option linter.unusedVariables false
def rcell (r : Rw) : List Value := [.int .i64 r.f, .int .i32 r.t, .int .i64 r.c]
def rcells (l : List Rw) : List Value := l.flatMap rcell
theorem rcells_len (l : List Rw) : (rcells l).length = l.length * 3 := by
  induction l with
  | nil => rfl
  | cons r l ih => unfold rcells at *; rw [List.flatMap_cons, List.length_append, ih]; simp [rcell]; omega
theorem rcells_app (l m : List Rw) : rcells (l ++ m) = rcells l ++ rcells m := by simp [rcells]
theorem rcells_at : ∀ (l : List Rw) (i : Nat), i < l.length → (rcells l)[i * 3]? = some (.int .i64 (l.getD i default).f) ∧ (rcells l)[i * 3 + 1]? = some (.int .i32 (l.getD i default).t) ∧ (rcells l)[i * 3 + 2]? = some (.int .i64 (l.getD i default).c)
  | [], i, h => by simp at h
  | r :: l, i, h => by
    have e : rcells (r :: l) = .int .i64 r.f :: .int .i32 r.t :: .int .i64 r.c :: rcells l := rfl
    rw [e]
    cases i with
    | zero => exact ⟨rfl, rfl, rfl⟩
    | succ i =>
      have := rcells_at l i (by simpa using h)
      rw [show (i + 1) * 3 = i * 3 + 1 + 1 + 1 by omega]
      simpa using this
theorem rcells_one (l : List Rw) : ∀ u ∈ rcells l, u.oneCell' = true := by
  intro u hu
  obtain ⟨r, _, h⟩ := List.mem_flatMap.1 hu
  simp [rcell] at h
  rcases h with rfl | rfl | rfl <;> rfl
/-- Rows, in a slice of the call's own. -/
def RO (w : World) (B : Nat) (v : Value) (l : List Rw) : Prop := w.ownsRow B 145 3 v l.length (rcells l)
theorem RO.nil (w : World) (B : Nat) : RO w B (.slice none 0 0) [] := ⟨rfl, .inl ⟨rfl, rfl⟩⟩
theorem RO.same {w w' : World} {B : Nat} {v : Value} {l : List Rw} (h : RO w B v l) (hs : w.heap.size ≤ w'.heap.size) (hb : ∀ k, B ≤ k → k < w.heap.size → w'.heap[k]? = w.heap[k]?) : RO w' B v l := by
  obtain ⟨h1, h2⟩ := h
  refine ⟨h1, ?_⟩
  rcases h2 with h2 | ⟨g, cap, cur, hv, hg, hh, r⟩
  · exact .inl h2
  · refine .inr ⟨g, cap, cur, hv, hg, ?_, r⟩
    have hlt : g < w.heap.size := by
      rcases Nat.lt_or_ge g w.heap.size with h' | h'
      · exact h'
      · rw [Array.getElem?_eq_none h'] at hh; cases hh
    rw [hb g hg hlt]; exact hh
theorem RO.below {w w' : World} {B : Nat} {v : Value} {l : List Rw} (h : RO w B v l) (hb : Below w.heap.size w w') : RO w' B v l :=
  h.same hb.size (fun k _ h2 => hb.block k h2)
theorem RO.le {w : World} {B B' : Nat} {v : Value} {l : List Rw} (h : RO w B v l) (hB : B' ≤ B) : RO w B' v l := by
  obtain ⟨h1, h2 | ⟨g, cap, cur, hv, hg, r⟩⟩ := h
  · exact ⟨h1, .inl h2⟩
  · exact ⟨h1, .inr ⟨g, cap, cur, hv, Nat.le_trans hB hg, r⟩⟩
/-- Where rows lie. -/
theorem RO.form {w : World} {B : Nat} {v : Value} {l : List Rw} (h : RO w B v l) : (v = .slice none 0 0 ∧ l = []) ∨ ∃ g cap, v = .slice (some ⟨g, 0, none⟩) l.length cap ∧ B ≤ g ∧ g < w.heap.size ∧ l.length ≤ cap ∧ cap ≤ maxLen ∧
    ∀ i, i < l.length → w.cell? ⟨g, i * 3, none⟩ = some (.int .i64 (l.getD i default).f) ∧ w.cell? ⟨g, i * 3 + 1, none⟩ = some (.int .i32 (l.getD i default).t) ∧ w.cell? ⟨g, i * 3 + 2, none⟩ = some (.int .i64 (l.getD i default).c) := by
  obtain ⟨h1, ⟨h2, h3⟩ | ⟨g, cap, cur, rfl, hb, hg, hn, hm, hs, ht⟩⟩ := h
  · exact .inl ⟨h2, List.length_eq_zero_iff.1 h3⟩
  · refine .inr ⟨g, cap, rfl, hb, ?_, hn, hm, fun i hi => ?_⟩
    · rcases Nat.lt_or_ge g w.heap.size with h' | h'
      · exact h'
      · rw [Array.getElem?_eq_none h'] at hg; cases hg
    · have key : ∀ j u, j < l.length * 3 → (rcells l)[j]? = some u → w.cell? ⟨g, j, none⟩ = some u := fun j u hj hu => by
        rw [← ht, List.getElem?_take, if_pos hj, Array.getElem?_toList] at hu
        simp only [World.cell?, hg, Option.isSome_none, Bool.false_eq_true, if_false]
        exact hu
      obtain ⟨a, b, c⟩ := rcells_at l i hi
      exact ⟨key _ _ (by omega) a, key _ _ (by omega) b, key _ _ (by omega) c⟩
theorem RO.slice {w : World} {B : Nat} {v : Value} {l : List Rw} (h : RO w B v l) : ∃ A c, v = .slice A l.length c := by
  rcases h.form with ⟨rfl, rfl⟩ | ⟨g, cap, rfl, _⟩
  · exact ⟨none, 0, rfl⟩
  · exact ⟨_, _, rfl⟩
theorem RO.one {w : World} {B : Nat} {v : Value} {l : List Rw} (h : RO w B v l) : v.oneCell' = true := by
  obtain ⟨A, c, rfl⟩ := h.slice
  rfl
/-- Rows as a slice shows them, wherever they lie. -/
def RowRw (w : World) (A : Option Addr) (c : Nat) (l : List Rw) : Prop :=
  (A = none ∧ l = [] ∧ c = 0) ∨ ∃ g o, A = some ⟨g, o, none⟩ ∧ l.length ≤ c ∧ c ≤ maxLen ∧ g < w.heap.size ∧ ∀ i, i < l.length →
    w.cell? ⟨g, o + i * 3, none⟩ = some (.int .i64 (l.getD i default).f) ∧ w.cell? ⟨g, o + i * 3 + 1, none⟩ = some (.int .i32 (l.getD i default).t) ∧ w.cell? ⟨g, o + i * 3 + 2, none⟩ = some (.int .i64 (l.getD i default).c)
theorem RowRw.below {w w' : World} {A : Option Addr} {c : Nat} {l : List Rw} (h : RowRw w A c l) (hb : Below w.heap.size w w') : RowRw w' A c l := by
  rcases h with h | ⟨g, o, h1, h2, h3, h4, h5⟩
  · exact .inl h
  · have hB : ∀ k, w'.cell? ⟨g, k, none⟩ = w.cell? ⟨g, k, none⟩ := fun k => hb.cell (p := ⟨g, k, none⟩) h4
    exact .inr ⟨g, o, h1, h2, h3, Nat.lt_of_lt_of_le h4 hb.size, fun i hi => by
      obtain ⟨x, y, z⟩ := h5 i hi
      exact ⟨(hB _).trans x, (hB _).trans y, (hB _).trans z⟩⟩
theorem RowRw.at {w : World} {A : Option Addr} {c : Nat} {l : List Rw} (h : RowRw w A c l) (i : Nat) (hi : i < l.length) : ∃ g o, A = some ⟨g, o, none⟩ ∧ l.length ≤ c ∧ c ≤ maxLen ∧ g < w.heap.size ∧
    w.cell? ⟨g, o + i * 3, none⟩ = some (.int .i64 (l.getD i default).f) ∧ w.cell? ⟨g, o + i * 3 + 1, none⟩ = some (.int .i32 (l.getD i default).t) ∧ w.cell? ⟨g, o + i * 3 + 2, none⟩ = some (.int .i64 (l.getD i default).c) ∧ l.getD i default ∈ l := by
  rcases h with ⟨_, rfl, _⟩ | ⟨g, o, h1, h2, h3, h4, h5⟩
  · simp at hi
  · obtain ⟨x, y, z⟩ := h5 i hi
    exact ⟨g, o, h1, h2, h3, h4, x, y, z, by simp [List.getD, List.getElem?_eq_getElem hi]⟩
theorem RO.rows {w : World} {B : Nat} {v : Value} {l : List Rw} (h : RO w B v l) : ∃ A c, v = .slice A l.length c ∧ RowRw w A c l := by
  rcases h.form with ⟨rfl, rfl⟩ | ⟨g, cap, rfl, h2, h3, h4, h5, h6⟩
  · exact ⟨none, 0, rfl, .inl ⟨rfl, rfl, rfl⟩⟩
  · exact ⟨_, _, rfl, .inr ⟨g, 0, rfl, h4, h5, h3, fun i hi => by simpa using h6 i hi⟩⟩
/-- The rows from a place on. -/
theorem RowRw.drop {w : World} {g o c : Nat} {l : List Rw} (h : RowRw w (some ⟨g, o, none⟩) c l) (i : Nat) (hi : i ≤ l.length) : RowRw w (some ⟨g, o + i * 3, none⟩) (c - i) (l.drop i) := by
  rcases h with ⟨h, _⟩ | ⟨g', o', h1, h2, h3, h4, h5⟩
  · cases h
  · cases h1
    refine .inr ⟨g, o + i * 3, rfl, by rw [List.length_drop]; omega, by omega, h4, fun j hj => ?_⟩
    rw [List.length_drop] at hj
    have := h5 (i + j) (by omega)
    have e : (l.drop i).getD j default = l.getD (i + j) default := by simp [List.getD]
    rw [e, show o + i * 3 + j * 3 = o + (i + j) * 3 by omega]
    exact this
end Go.Proofs.YtiigknimfibdpaaGreatDoor.tb
