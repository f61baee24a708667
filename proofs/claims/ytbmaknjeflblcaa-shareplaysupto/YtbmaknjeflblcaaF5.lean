/- The document's share: Ready. -/
import Derived.Test.YtbmaknjeflblcaaF1
namespace Go.Proofs.Ytbmaknjeflblcaa
open Go.RowKit Go.Maps
set_option linter.unusedVariables false
set_option linter.unusedSimpArgs false

/-- a number laid into a rising list -/
def insL (x : Int) : List Int → List Int
  | [] => [x]
  | y :: r => if x < y then x :: y :: r else y :: insL x r
def stp (x : Int) (a : Bool × List Int) (y : Int) : Bool × List Int := if (!a.1 && decide (x < y)) = true then (true, a.2 ++ [x, y]) else (a.1, a.2 ++ [y])
theorem stp_true (x : Int) : ∀ (l a : List Int), l.foldl (stp x) (true, a) = (true, a ++ l)
  | [], a => by simp
  | y :: r, a => by
    rw [List.foldl_cons, show stp x (true, a) y = (true, a ++ [y]) from rfl, stp_true x r]
    simp
theorem stp_ins (x : Int) : ∀ (l a : List Int), (if (l.foldl (stp x) (false, a)).1 = true then (l.foldl (stp x) (false, a)).2 else (l.foldl (stp x) (false, a)).2 ++ [x]) = a ++ insL x l
  | [], a => by simp [insL]
  | y :: r, a => by
    rw [List.foldl_cons]
    by_cases h : x < y
    · rw [show stp x (false, a) y = (true, a ++ [x, y]) from by unfold stp; simp [h], stp_true]
      simp [insL, h]
    · rw [show stp x (false, a) y = (false, a ++ [y]) from by unfold stp; simp [h], stp_ins x r]
      simp [insL, h]
theorem mem_insL (x z : Int) : ∀ l : List Int, z ∈ insL x l ↔ z = x ∨ z ∈ l
  | [] => by simp [insL]
  | y :: r => by
    unfold insL
    split
    · simp
    · simp only [List.mem_cons, mem_insL x z r]
      constructor
      · rintro (h | h | h)
        · exact .inr (.inl h)
        · exact .inl h
        · exact .inr (.inr h)
      · rintro (h | h | h)
        · exact .inr (.inl h)
        · exact .inl h
        · exact .inr (.inr h)
theorem insL_rise (x : Int) : ∀ {l : List Int}, l.Pairwise (· < ·) → x ∉ l → (insL x l).Pairwise (· < ·)
  | [], _, _ => by simp [insL]
  | y :: r, h, hn => by
    have h' := List.pairwise_cons.1 h
    unfold insL
    split
    · rename_i hk
      refine List.pairwise_cons.2 ⟨fun q hq => ?_, h⟩
      rcases List.mem_cons.1 hq with rfl | hq
      · exact hk
      · have := h'.1 q hq; omega
    · rename_i hk
      refine List.pairwise_cons.2 ⟨fun q hq => ?_, insL_rise x h'.2 fun e => hn (List.mem_cons_of_mem _ e)⟩
      rcases (mem_insL x q r).1 hq with rfl | hq
      · have : q ≠ y := fun e => hn (by rw [e]; exact List.mem_cons_self)
        omega
      · exact h'.1 q hq
theorem insL_len (x : Int) : ∀ l : List Int, (insL x l).length = l.length + 1
  | [] => rfl
  | y :: r => by
    unfold insL
    split
    · rfl
    · simp [insL_len x r]
theorem snocRec {α : Type} {motive : List α → Prop} (nil : motive []) (snoc : ∀ l a, motive l → motive (l ++ [a])) (l : List α) : motive l := by
  rw [← List.reverse_reverse l]
  induction l.reverse with
  | nil => exact nil
  | cons a r ih => rw [List.reverse_cons]; exact snoc _ _ ih
/-- the streams that are ready, of the first ones -/
def rrd (L M : List Stm) (c : Int) (f : Int → Int) : List Int := M.foldl (fun out s => if rdB (wN L s.id) (wE L s.id) c (f s.id) = true then insL s.id out else out) []
theorem rrd_snoc (L M : List Stm) (s : Stm) (c : Int) (f : Int → Int) : rrd L (M ++ [s]) c f = if rdB (wN L s.id) (wE L s.id) c (f s.id) = true then insL s.id (rrd L M c f) else rrd L M c f := by simp [rrd]
theorem rrd_len (L : List Stm) (c : Int) (f : Int → Int) (M : List Stm) : (rrd L M c f).length ≤ M.length := by
  induction M using snocRec with
  | nil => simp [rrd]
  | snoc M s ih =>
    rw [rrd_snoc, List.length_append]
    split
    · rw [insL_len]; simp; omega
    · simp; omega
theorem mem_rrd (L : List Stm) (c : Int) (f : Int → Int) (z : Int) (M : List Stm) : z ∈ rrd L M c f ↔ ∃ s ∈ M, s.id = z ∧ rdB (wN L s.id) (wE L s.id) c (f s.id) = true := by
  induction M using snocRec with
  | nil => simp [rrd]
  | snoc M s ih =>
    rw [rrd_snoc]
    split
    · rename_i h
      rw [mem_insL, ih]
      constructor
      · rintro (rfl | ⟨q, hq, h1, h2⟩)
        · exact ⟨s, by simp, rfl, h⟩
        · exact ⟨q, by simp [hq], h1, h2⟩
      · rintro ⟨q, hq, h1, h2⟩
        rcases List.mem_append.1 hq with hq | hq
        · exact .inr ⟨q, hq, h1, h2⟩
        · rw [List.mem_singleton.1 hq] at h1; exact .inl h1.symm
    · rename_i h
      rw [ih]
      constructor
      · rintro ⟨q, hq, h1, h2⟩
        exact ⟨q, by simp [hq], h1, h2⟩
      · rintro ⟨q, hq, h1, h2⟩
        rcases List.mem_append.1 hq with hq | hq
        · exact ⟨q, hq, h1, h2⟩
        · rw [List.mem_singleton.1 hq] at h2; exact absurd h2 h
theorem rrd_rise (L : List Stm) (c : Int) (f : Int → Int) (M : List Stm) (hn : M.Pairwise fun a b => a.id ≠ b.id) : (rrd L M c f).Pairwise (· < ·) := by
  induction M using snocRec with
  | nil => simp [rrd]
  | snoc M s ih =>
    rw [List.pairwise_append] at hn
    rw [rrd_snoc]
    split
    · refine insL_rise _ (ih hn.1) fun e => ?_
      obtain ⟨q, hq, h1, _⟩ := (mem_rrd L c f s.id M).1 e
      exact hn.2.2 q hq s (by simp) h1
    · exact ih hn.1
/-- what is left, by the last k of a list -/
theorem lf_drop (l : List (Int × Int)) (id : Int) (k : Nat) (hk : k < l.length) : lf (l.drop k) id = if l[k].1 = id then l[k].2 else lf (l.drop (k + 1)) id := by
  rw [List.drop_eq_getElem_cons hk]
  unfold lf
  split
  · rename_i h
    rw [List.find?_cons_of_pos (by simpa using h)]; rfl
  · rename_i h
    rw [List.find?_cons_of_neg (by simpa using h)]
/-- one number more in a row -/
theorem app_int {w : World} {b : Option Addr} {n c : Nat} {l : List Int} (h : R EI w (.slice b n c) l) (hn : n = l.length) (x : Int) (hz : n ≤ 4194304) :
    ∃ (b2 : Option Addr) (c2 : Nat) (w2 : World), (Builtin.append_ #[22, 22] 22 #[.slice b n c, .slice (some ⟨w.heap.size, 0, none⟩) 1 1]).run Try.prog (w.alloc (Obj.cells #[.int .i64 x] 2)) = .ok (.slice b2 (n + 1) c2) w2 ∧ R EI w2 (.slice b2 (n + 1) c2) (l ++ [x]) ∧ (∀ lo, lo ≤ w.heap.size → (∀ k, (Value.slice b n c).ownBlock = some k → lo ≤ k) → Below lo w w2 ∧ ∀ k, (Value.slice b2 (n + 1) c2).ownBlock = some k → lo ≤ k) ∧ w.heap.size < w2.heap.size := by
  subst hn
  have b1 := bel1 w (Obj.cells #[.int .i64 x] 2)
  obtain ⟨b2, c2, w2, hrun, hR, hG⟩ := app okI (w.alloc (Obj.cells #[.int .i64 x] 2)) (.slice b l.length c) l (h.below b1) (.slice (some ⟨w.heap.size, 0, none⟩) 1 1) [x] (in_int _ x _ _ (heap_alloc_new _ _) rfl) (by simp [EI]; omega)
  simp only [List.length_singleton] at hrun hR hG
  refine ⟨b2, c2, w2, hrun, hR, fun lo hlo hown => ⟨(b1.mono hlo).trans (hG.belowB (by simp; omega) hown), fun k hk => ?_⟩, by have := hG.size; simp at this; omega⟩
  rcases hG.own k hk with e | e
  · exact hown k e
  · simp at e; omega
end Go.Proofs.Ytbmaknjeflblcaa
