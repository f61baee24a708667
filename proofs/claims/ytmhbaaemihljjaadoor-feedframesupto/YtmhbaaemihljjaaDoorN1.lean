/- FeedChunks: however bytes are cut, the same is told: plain facts. -/
import Derived.Test.YtmhbaaemihljjaaDoorK9
namespace Go.Proofs.YtmhbaaemihljjaaDoor
open Go.RowKit
set_option linter.unusedVariables false
set_option linter.unusedSimpArgs false

/-- what is told: a frame and its params, the fault -/
abbrev Tl := (Fr × List (Int × Int)) × Int × Int

/-- all that is told, with so many questions at most -/
def dr : Nat → St → List Tl × (Int × Int) × St
  | 0, S => ([], (0, 0), S)
  | k + 1, S => if (nextS S).ok = false ∧ ((nextS S).c = 0 ∨ (nextS S).x = 0) then ([], ((nextS S).c, (nextS S).x), (nextS S).S) else ((((nextS S).fp, (nextS S).c, (nextS S).x)) :: (dr k (nextS S).S).1, (dr k (nextS S).S).2)

theorem passS_cases (S : St) : ((passS S).1 = false ∧ (passS S).2 = { S with code := 1 } ∧ okS S = false) ∨ ((passS S).1 = false ∧ (passS S).2 = S ∧ nS S < S.pre.size ∧ okS S = true) ∨ ((passS S).1 = true ∧ (passS S).2 = { S with wait := S.wait.drop S.pre.size, pre := ⟨#[]⟩ } ∧ nS S = S.pre.size ∧ okS S = true) := by
  unfold passS
  by_cases h1 : okS S = false
  · rw [if_pos h1]; exact .inl ⟨rfl, rfl, h1⟩
  · have h1' : okS S = true := by simpa using h1
    rw [if_neg h1]
    by_cases h2 : nS S < S.pre.size
    · rw [if_pos h2]; exact .inr (.inl ⟨rfl, rfl, h2, h1'⟩)
    · rw [if_neg h2]
      have : nS S ≤ S.pre.size := by unfold nS; omega
      have e : nS S = S.pre.size := by omega
      exact .inr (.inr ⟨rfl, by rw [e], e, h1'⟩)

/-- what is read behind the preface -/
def rdN (P : St) : NxR := shutR ⟨(rdL P.wait P.most).1, okR (rdL P.wait P.most), (rdL P.wait P.most).2.2.1, (rdL P.wait P.most).2.2.2, rfS P⟩

theorem rdN_cases (a : ByteArray) (W : List UInt8) (m : Int) :
    (rdL W m = ((Fr.zero, []), 0, 0, 0) ∧ rdN ⟨a, W, m, 0⟩ = ⟨(Fr.zero, []), false, 0, 0, ⟨a, W, m, 0⟩⟩) ∨
    (∃ c, c ≠ 0 ∧ rdL W m = ((Fr.zero, []), 0, c, 0) ∧ rdN ⟨a, W, m, 0⟩ = ⟨(Fr.zero, []), false, c, 0, deadS c⟩) ∨
    (∃ f ps n c x, 9 ≤ n ∧ n ≤ W.length ∧ rdL W m = ((f, ps), ((n : Nat) : Int), c, x) ∧ rdN ⟨a, W, m, 0⟩ = ⟨(f, ps), decide (c = 0 ∧ x = 0), c, x, ⟨a, W.drop n, m, 0⟩⟩ ∧ ((c = 0 ∧ x = 0) ∨ (c ≠ 0 ∧ x ≠ 0))) := by
  unfold rdN rfS okR
  rcases rdL_cases W m with ⟨hr, _⟩ | ⟨c, hc, _, hr⟩ | ⟨c, x, hc, hx, hl, hr⟩ | ⟨f, ps, hl, hr⟩
  · refine .inl ⟨hr, ?_⟩
    simp only [hr]
    rfl
  · refine .inr (.inl ⟨c, hc, hr, ?_⟩)
    simp only [hr, if_true]
    unfold shutR
    rw [if_neg hc]
  · refine .inr (.inr ⟨Fr.zero, [], 9 + n3 W, c, x, by omega, hl, hr, ?_, .inr ⟨hc, hx⟩⟩)
    simp only [hr, if_neg hx]
    unfold shutR
    rw [if_pos rfl]
    have e : ((9 + n3 W : Nat) : Int).toNat = 9 + n3 W := by omega
    simp only [e]
    simp [hc, hx]
  · refine .inr (.inr ⟨f, ps, 9 + n3 W, 0, 0, by omega, hl, hr, ?_, .inl ⟨rfl, rfl⟩⟩)
    simp only [hr, if_true]
    unfold shutR
    rw [if_pos rfl]
    have e : ((9 + n3 W : Nat) : Int).toNat = 9 + n3 W := by omega
    simp only [e]
    have e2 : (0 : Int) < ((9 + n3 W : Nat) : Int) := by omega
    simp [e2]
    omega

theorem nextS_alive (a : ByteArray) (W : List UInt8) (m : Int) : nextS ⟨a, W, m, 0⟩ = if (passS ⟨a, W, m, 0⟩).1 = false then shutR ⟨(Fr.zero, []), false, 0, 0, (passS ⟨a, W, m, 0⟩).2⟩ else rdN (passS ⟨a, W, m, 0⟩).2 := by
  unfold nextS
  rw [if_neg (by simp)]
  split
  · rfl
  · rfl

theorem nextS_dead (c : Int) (hc : c ≠ 0) : nextS (deadS c) = ⟨(Fr.zero, []), false, c, 0, deadS c⟩ := by
  unfold nextS
  rw [if_pos (show (deadS c).code ≠ 0 from hc)]
  unfold shutR
  rw [if_neg (show ¬ (deadS c).code = 0 from hc)]
  rfl

theorem pre0 (W : List UInt8) (m : Int) : passS ⟨⟨#[]⟩, W, m, 0⟩ = (true, ⟨⟨#[]⟩, W, m, 0⟩) := by
  rw [passS_eq]
  unfold passL
  have hn : nS ⟨⟨#[]⟩, W, m, 0⟩ = 0 := by unfold nS; exact Nat.min_zero _
  rw [hn]
  rfl
theorem nextS_pre0 (W : List UInt8) (m : Int) : nextS ⟨⟨#[]⟩, W, m, 0⟩ = rdN ⟨⟨#[]⟩, W, m, 0⟩ := by
  rw [nextS_alive, pre0, if_neg (by simp)]

theorem passS_app (a : ByteArray) (W X : List UInt8) (m : Int) :
    (okS ⟨a, W, m, 0⟩ = false → okS ⟨a, W ++ X, m, 0⟩ = false) ∧
    ((passS ⟨a, W, m, 0⟩).1 = true → passS ⟨a, W ++ X, m, 0⟩ = (true, ⟨⟨#[]⟩, W.drop a.size ++ X, m, 0⟩) ∧ (passS ⟨a, W, m, 0⟩).2 = ⟨⟨#[]⟩, W.drop a.size, m, 0⟩) := by
  have hn : nS ⟨a, W, m, 0⟩ = min W.length a.size := rfl
  have hn' : nS ⟨a, W ++ X, m, 0⟩ = min (W.length + X.length) a.size := by show min (W ++ X).length a.size = _; rw [List.length_append]
  refine ⟨fun h => ?_, fun h => ?_⟩
  · rw [okS_eq] at h ⊢
    rw [hn] at h
    rw [hn']
    rw [beq_eq_false_iff_ne] at h ⊢
    intro e
    apply h
    have e' := congrArg (List.take (min W.length a.size)) e
    show W.take (min W.length a.size) = a.data.toList.take (min W.length a.size)
    rw [List.take_take, List.take_take, Nat.min_eq_left (by omega)] at e'
    rw [← e']
    show _ = (W ++ X).take _
    rw [List.take_append_of_le_length (by omega)]
  · rcases passS_cases ⟨a, W, m, 0⟩ with ⟨h1, _⟩ | ⟨h1, _⟩ | ⟨_, h2, h3, h4⟩
    · rw [h1] at h; cases h
    · rw [h1] at h; cases h
    · have hle : a.size ≤ W.length := by
        have : min W.length a.size = a.size := h3
        omega
      refine ⟨?_, h2⟩
      have hnn : nS ⟨a, W ++ X, m, 0⟩ = a.size := by rw [hn']; omega
      have hok : okS ⟨a, W ++ X, m, 0⟩ = true := by
        rw [okS_eq] at h4 ⊢
        rw [h3] at h4
        rw [hnn]
        show ((W ++ X).take a.size == _) = true
        rw [List.take_append_of_le_length hle]
        exact h4
      rcases passS_cases ⟨a, W ++ X, m, 0⟩ with ⟨_, _, k⟩ | ⟨_, _, k, _⟩ | ⟨k1, k2, _, _⟩
      · rw [k] at hok; cases hok
      · rw [hnn] at k; exact absurd k (Nat.lt_irrefl _)
      · refine Prod.ext k1 (k2.trans ?_)
        show (⟨⟨#[]⟩, (W ++ X).drop a.size, m, 0⟩ : St) = _
        rw [List.drop_append_of_le_length hle]

theorem deadS_ne {c : Int} (hc : c ≠ 0) : ¬ (deadS c).code = 0 := hc

/-- one question, and what more bytes behind change of it -/
theorem nx_step (a : ByteArray) (W : List UInt8) (m : Int) :
    (∃ fp ok c x W', ¬ (ok = false ∧ (c = 0 ∨ x = 0)) ∧ W'.length + 9 ≤ W.length ∧ ∀ X, nextS ⟨a, W ++ X, m, 0⟩ = ⟨fp, ok, c, x, ⟨⟨#[]⟩, W' ++ X, m, 0⟩⟩) ∨
    (∃ a1 W1, W1.length ≤ W.length ∧ nextS ⟨a, W, m, 0⟩ = ⟨(Fr.zero, []), false, 0, 0, ⟨a1, W1, m, 0⟩⟩ ∧ ∀ X, nextS ⟨a1, W1 ++ X, m, 0⟩ = nextS ⟨a, W ++ X, m, 0⟩) ∨
    (∃ c, c ≠ 0 ∧ ∀ X, nextS ⟨a, W ++ X, m, 0⟩ = ⟨(Fr.zero, []), false, c, 0, deadS c⟩) := by
  rcases passS_cases ⟨a, W, m, 0⟩ with ⟨h1, h2, h3⟩ | ⟨h1, h2, _, _⟩ | ⟨h1, h2, _, _⟩
  · refine .inr (.inr ⟨1, by decide, fun X => ?_⟩)
    have hk := (passS_app a W X m).1 h3
    rcases passS_cases ⟨a, W ++ X, m, 0⟩ with ⟨k1, k2, _⟩ | ⟨_, _, _, k⟩ | ⟨_, _, _, k⟩
    · rw [nextS_alive, if_pos k1, k2]
      unfold shutR
      rw [if_neg (by simp)]
    · rw [hk] at k; cases k
    · rw [hk] at k; cases k
  · refine .inr (.inl ⟨a, W, Nat.le_refl _, ?_, fun X => rfl⟩)
    rw [nextS_alive, if_pos h1, h2]
    unfold shutR
    rw [if_pos rfl]
  · have hX : ∀ X, nextS ⟨a, W ++ X, m, 0⟩ = rdN ⟨⟨#[]⟩, W.drop a.size ++ X, m, 0⟩ := fun X => by
      rw [nextS_alive, ((passS_app a W X m).2 h1).1, if_neg (by simp)]
    have hl : (W.drop a.size).length ≤ W.length := by rw [List.length_drop]; omega
    have h0 := hX []
    rw [List.append_nil, List.append_nil] at h0
    obtain ⟨V, hV⟩ : ∃ V, V = W.drop a.size := ⟨_, rfl⟩
    rw [← hV] at hX hl h0
    clear hV
    rcases rdN_cases ⟨#[]⟩ V m with ⟨r1, r2⟩ | ⟨c, hc, r1, r2⟩ | ⟨f, ps, n, c, x, hn, hnl, r1, r2, hcx⟩
    · refine .inr (.inl ⟨⟨#[]⟩, V, hl, by rw [h0, r2], fun X => ?_⟩)
      rw [nextS_pre0, hX]
    · refine .inr (.inr ⟨c, hc, fun X => ?_⟩)
      have ha := rdL_app V X m (by rw [r1]; intro e; simp at e; exact hc e)
      rw [hX]
      rcases rdN_cases ⟨#[]⟩ (V ++ X) m with ⟨q1, q2⟩ | ⟨c', hc', q1, q2⟩ | ⟨f, ps, n, c', x, hn, hnl, q1, q2, hcx⟩
      · rw [ha, r1] at q1; simp at q1; exact absurd q1 hc
      · rw [ha, r1] at q1; simp at q1; rw [q2, ← q1]
      · rw [ha, r1] at q1; simp at q1; omega
    · have ha : ∀ X, rdL (V ++ X) m = ((f, ps), (n : Int), c, x) := fun X => by
        rw [rdL_app V X m (by rw [r1]; intro e; simp at e; omega), r1]
      refine .inl ⟨(f, ps), decide (c = 0 ∧ x = 0), c, x, V.drop n, ?_, by rw [List.length_drop]; omega, fun X => ?_⟩
      · rintro ⟨k1, k2⟩
        have k1' : ¬ (c = 0 ∧ x = 0) := by simpa using k1
        rcases hcx with h | ⟨h3, h4⟩
        · exact k1' h
        · rcases k2 with k2 | k2
          · exact h3 k2
          · exact h4 k2
      · rw [hX]
        rcases rdN_cases ⟨#[]⟩ (V ++ X) m with ⟨q1, q2⟩ | ⟨c', hc', q1, q2⟩ | ⟨f', ps', n', c', x', hn', hnl', q1, q2, hcx'⟩
        · rw [ha] at q1; simp at q1; omega
        · rw [ha] at q1; simp at q1; omega
        · rw [ha] at q1
          simp only [Prod.mk.injEq] at q1
          obtain ⟨⟨e1, e2⟩, e3, e4, e5⟩ := q1
          obtain rfl : n = n' := by omega
          subst e1 e2 e4 e5
          rw [q2, List.drop_append_of_le_length hnl]

theorem dr_dead (k : Nat) (c : Int) (hc : c ≠ 0) : dr (k + 1) (deadS c) = ([], (c, 0), deadS c) := by
  unfold dr
  rw [nextS_dead c hc, if_pos ⟨rfl, .inr rfl⟩]

/-- enough questions are enough -/
theorem dr_enough (a : ByteArray) (m : Int) : ∀ (k : Nat) (W : List UInt8) (a : ByteArray), W.length < k → ∀ j, dr (k + j) ⟨a, W, m, 0⟩ = dr k ⟨a, W, m, 0⟩ := by
  intro k
  induction k with
  | zero => intro W a h; omega
  | succ k ih =>
    intro W a h j
    rw [show k + 1 + j = (k + j) + 1 by omega]
    rw [dr, dr]
    rcases nx_step a W m with ⟨fp, ok, c, x, W', hn, hl, hX⟩ | ⟨a1, W1, hl, h0, hX⟩ | ⟨c, hc, hX⟩
    · have h0 := hX []
      rw [List.append_nil, List.append_nil] at h0
      rw [h0]
      show (if ok = false ∧ (c = 0 ∨ x = 0) then _ else _) = if ok = false ∧ (c = 0 ∨ x = 0) then _ else _
      rw [if_neg hn, if_neg hn]
      show ((fp, c, x) :: (dr (k + j) ⟨⟨#[]⟩, W', m, 0⟩).1, (dr (k + j) ⟨⟨#[]⟩, W', m, 0⟩).2) = ((fp, c, x) :: (dr k ⟨⟨#[]⟩, W', m, 0⟩).1, (dr k ⟨⟨#[]⟩, W', m, 0⟩).2)
      rw [ih W' ⟨#[]⟩ (by omega) j]
    · rw [h0, if_pos ⟨rfl, .inl rfl⟩, if_pos ⟨rfl, .inl rfl⟩]
    · have h0 := hX []
      rw [List.append_nil] at h0
      rw [h0, if_pos ⟨rfl, .inr rfl⟩, if_pos ⟨rfl, .inr rfl⟩]

/-- all that is told -/
def dn (S : St) : List Tl × (Int × Int) × St := dr (S.wait.length + 1) S
def Ok (m : Int) (S : St) : Prop := (∃ a W, S = ⟨a, W, m, 0⟩) ∨ ∃ c, c ≠ 0 ∧ S = deadS c

theorem dn_step_told (a : ByteArray) (W W' : List UInt8) (m : Int) (fp : Fr × List (Int × Int)) (ok : Bool) (c x : Int) (hn : ¬ (ok = false ∧ (c = 0 ∨ x = 0))) (hl : W'.length + 9 ≤ W.length) (h : nextS ⟨a, W, m, 0⟩ = ⟨fp, ok, c, x, ⟨⟨#[]⟩, W', m, 0⟩⟩) :
    dn ⟨a, W, m, 0⟩ = ((fp, c, x) :: (dn ⟨⟨#[]⟩, W', m, 0⟩).1, (dn ⟨⟨#[]⟩, W', m, 0⟩).2) := by
  show dr (W.length + 1) _ = _
  rw [dr, h]
  show (if ok = false ∧ (c = 0 ∨ x = 0) then _ else _) = _
  rw [if_neg hn]
  show ((fp, c, x) :: (dr W.length ⟨⟨#[]⟩, W', m, 0⟩).1, (dr W.length ⟨⟨#[]⟩, W', m, 0⟩).2) = _
  have := dr_enough ⟨#[]⟩ m (W'.length + 1) W' ⟨#[]⟩ (by omega) (W.length - (W'.length + 1))
  rw [show W'.length + 1 + (W.length - (W'.length + 1)) = W.length by omega] at this
  rw [this]
  rfl
theorem dn_none {S : St} (c : Int) (S' : St) (h : nextS S = ⟨(Fr.zero, []), false, c, 0, S'⟩) : dn S = ([], (c, 0), S') := by
  unfold dn dr
  rw [h, if_pos ⟨rfl, .inr rfl⟩]

theorem dn_next {S T : St} (h : nextS S = nextS T) (m : Int) (a b : ByteArray) (W V : List UInt8) (hS : S = ⟨a, W, m, 0⟩) (hT : T = ⟨b, V, m, 0⟩) : dn S = dn T := by
  subst hS hT
  rcases nx_step a W m with ⟨fp, ok, c, x, W', hn, hl, hX⟩ | ⟨a1, W1, hl, h0, hX⟩ | ⟨c, hc, hX⟩
  · have h0 := hX []
    rw [List.append_nil, List.append_nil] at h0
    rcases nx_step b V m with ⟨fp2, ok2, c2, x2, V', hn2, hl2, hX2⟩ | ⟨a1, W1, hl2, h02, hX2⟩ | ⟨c2, hc2, hX2⟩
    · have h02 := hX2 []
      rw [List.append_nil, List.append_nil] at h02
      rw [dn_step_told a W W' m fp ok c x hn hl h0]
      rw [h0, h02] at h
      simp only [NxR.mk.injEq, St.mk.injEq] at h
      obtain ⟨e1, e2, e3, e4, -, e5, -⟩ := h
      subst e1 e2 e3 e4 e5
      rw [dn_step_told b V W' m fp ok c x hn hl2 h02]
    · rw [h0, h02] at h
      simp only [NxR.mk.injEq] at h
      exact absurd ⟨h.2.1, .inl h.2.2.1⟩ hn
    · have h02 := hX2 []
      rw [List.append_nil] at h02
      rw [h0, h02] at h
      simp only [NxR.mk.injEq] at h
      exact absurd ⟨h.2.1, .inr h.2.2.2.1⟩ hn
  · rw [dn_none 0 _ h0, dn_none 0 _ (h.symm.trans h0)]
  · have h0 := hX []
    rw [List.append_nil] at h0
    rw [dn_none c _ h0, dn_none c _ (h.symm.trans h0)]

theorem push_alive (a : ByteArray) (W : List UInt8) (m : Int) (s : ByteArray) : pushS ⟨a, W, m, 0⟩ s = ⟨a, W ++ s.data.toList, m, 0⟩ := if_pos rfl
theorem push_dead' (c : Int) (hc : c ≠ 0) (s : ByteArray) : pushS (deadS c) s = deadS c := if_neg hc

/-- Asked between, or not: the same. -/
theorem conf (m : Int) (s : ByteArray) : ∀ (k : Nat) (S : St), Ok m S → S.wait.length < k →
    Ok m (dn S).2.2 ∧ (dn S).2.2.wait.length ≤ S.wait.length ∧ dn (pushS S s) = ((dn S).1 ++ (dn (pushS (dn S).2.2 s)).1, (dn (pushS (dn S).2.2 s)).2) := by
  intro k
  induction k with
  | zero => intro S _ h; omega
  | succ k ih =>
    intro S hS hk
    rcases hS with ⟨a, W, rfl⟩ | ⟨c, hc, rfl⟩
    · rw [push_alive]
      rcases nx_step a W m with ⟨fp, ok, c, x, W', hn, hl, hX⟩ | ⟨a1, W1, hl, h0, hX⟩ | ⟨c, hc, hX⟩
      · have h0 := hX []
        rw [List.append_nil, List.append_nil] at h0
        have hk' : W.length < k + 1 := hk
        obtain ⟨i1, i2, i3⟩ := ih ⟨⟨#[]⟩, W', m, 0⟩ (.inl ⟨_, _, rfl⟩) (by show W'.length < k; omega)
        rw [dn_step_told a W W' m fp ok c x hn hl h0]
        refine ⟨i1, Nat.le_trans i2 (by show W'.length ≤ W.length; omega), ?_⟩
        rw [dn_step_told a (W ++ s.data.toList) (W' ++ s.data.toList) m fp ok c x hn (by rw [List.length_append, List.length_append]; omega) (hX _), ← push_alive, i3]
        rfl
      · rw [dn_none 0 _ h0]
        refine ⟨.inl ⟨_, _, rfl⟩, hl, ?_⟩
        show _ = ([] ++ _, _)
        rw [List.nil_append, push_alive]
        exact dn_next (hX _).symm m _ _ _ _ rfl rfl
      · have h0 := hX []
        rw [List.append_nil] at h0
        rw [dn_none c _ h0]
        refine ⟨.inr ⟨c, hc, rfl⟩, Nat.zero_le _, ?_⟩
        show _ = ([] ++ _, _)
        rw [List.nil_append, push_dead' c hc, dn_none c _ (hX _), dn_none c _ (nextS_dead c hc)]
    · rw [push_dead' c hc, dn_none c _ (nextS_dead c hc)]
      refine ⟨.inr ⟨c, hc, rfl⟩, Nat.le_refl _, ?_⟩
      show _ = ([] ++ _, _)
      rw [List.nil_append, push_dead' c hc, dn_none c _ (nextS_dead c hc)]
end Go.Proofs.YtmhbaaemihljjaaDoor
