/- sameParams, sameInts, lent. -/
import Derived.Test.YtfkimdgbkfogcaaDoorA1
namespace Go.Proofs.YtfkimdgbkfogcaaDoor
open Go.RowKit
set_option linter.unusedVariables false
set_option linter.unusedSimpArgs false

set_option maxRecDepth 100000 in
set_option maxHeartbeats 2000000 in
theorem sameParams_eq (w : World) (p q : Value) (l : List (Int × Int)) (hp : In EP w p l) (hq : In EP w q l) :
    Calls Tryd.prog 19 #[p, q] w fun e w' => e = .returned (.bool true) ∧ Below w.heap.size w w' := by
  have HP : Hid (In EP w p l) := hp
  have HQ : Hid (In EP w q l) := hq
  obtain ⟨pb, pc, rfl, h1, h2⟩ := hp.slice
  obtain ⟨qb, qc, rfl, h3, h4⟩ := hq.slice
  clear hp hq
  obtain ⟨n, hn⟩ : ∃ n, l.length = n := ⟨_, rfl⟩
  have HN : Hid (l.length = n) := hn
  rw [hn] at HP HQ h1 h3 ⊢
  clear hn
  go_enter Tryd.func19, Tryd.ntmps19
  go_wp2
  go_loopw [5] (fun i wr => ∃ k : Nat, k ≤ n ∧ i = .int .i64 (k : Int) ∧ Below w.heap.size w wr) (fun i _ => n - (intOf i).toNat)
  case atStart => exact ⟨0, by omega, rfl, Below.refl _ _⟩
  case round =>
    obtain ⟨k, hk, rfl, hb⟩ := hrel
    by_cases hlt : k < n
    · have hl := HN.out
      obtain ⟨B, off, cap, e, hBl, d1, d2⟩ := (HP.out.below hb).par k (by omega)
      obtain ⟨B', off', cap', e', hBl', d1', d2'⟩ := (HQ.out.below hb).par k (by omega)
      injection e with e1 e2 e3
      injection e' with e1' e2' e3'
      subst e1
      subst e1'
      clear e2 e3 e2' e3'
      obtain ⟨x, y, hxy⟩ : ∃ x y, l[k]'(by omega) = (x, y) := ⟨_, _, rfl⟩
      rw [hxy] at d1 d2 d1' d2'
      simp only at d1 d2 d1' d2'
      clear hxy hl
      go_wp2_with fail
      go_region
      all_goals
        go_wp2_with fail
        go_roundw
        case rel => exact ⟨k + 1, by omega, by simp, hb.drew⟩
        case measure => simp [intOf]; omega
    · obtain rfl : k = n := by omega
      go_wp2
      go_ret
      exact ⟨rfl, hb⟩

theorem In.int {w : World} {v : Value} {l : List Int} (h : In EI w v l) (k : Nat) (hk : k < l.length) : ∃ B off cap, v = .slice (some ⟨B, off, none⟩) l.length cap ∧ B < w.heap.size ∧ w.cell? ⟨B, off + k, none⟩ = some (.int .i64 l[k]) := by
  obtain ⟨B, off, cap, h1, h2, h3⟩ := h.get okI k hk
  have := h3 0 _ rfl
  simp only [EI, Nat.mul_one, Nat.add_zero] at this
  exact ⟨B, off, cap, h1, h2, this⟩

set_option maxRecDepth 100000 in
set_option maxHeartbeats 2000000 in
theorem sameInts_eq (w : World) (p q : Value) (l : List Int) (hp : In EI w p l) (hq : In EI w q l) :
    Calls Tryd.prog 26 #[p, q] w fun e w' => e = .returned (.bool true) ∧ Below w.heap.size w w' := by
  have HP : Hid (In EI w p l) := hp
  have HQ : Hid (In EI w q l) := hq
  obtain ⟨pb, pc, rfl, h1, h2⟩ := hp.slice
  obtain ⟨qb, qc, rfl, h3, h4⟩ := hq.slice
  clear hp hq
  obtain ⟨n, hn⟩ : ∃ n, l.length = n := ⟨_, rfl⟩
  have HN : Hid (l.length = n) := hn
  rw [hn] at HP HQ h1 h3 ⊢
  clear hn
  go_enter Tryd.func26, Tryd.ntmps26
  go_wp2
  go_loopw [5] (fun i wr => ∃ k : Nat, k ≤ n ∧ i = .int .i64 (k : Int) ∧ Below w.heap.size w wr) (fun i _ => n - (intOf i).toNat)
  case atStart => exact ⟨0, by omega, rfl, Below.refl _ _⟩
  case round =>
    obtain ⟨k, hk, rfl, hb⟩ := hrel
    by_cases hlt : k < n
    · have hl := HN.out
      obtain ⟨B, off, cap, e, hBl, d1⟩ := (HP.out.below hb).int k (by omega)
      obtain ⟨B', off', cap', e', hBl', d1'⟩ := (HQ.out.below hb).int k (by omega)
      injection e with e1 e2 e3
      injection e' with e1' e2' e3'
      subst e1
      subst e1'
      clear e2 e3 e2' e3'
      obtain ⟨x, hxy⟩ : ∃ x, l[k]'(by omega) = x := ⟨_, rfl⟩
      rw [hxy] at d1 d1'
      clear hxy hl
      go_wp2_with fail
      go_region
      all_goals
        go_wp2_with fail
        go_roundw
        case rel => exact ⟨k + 1, by omega, by simp, hb.drew⟩
        case measure => simp [intOf]; omega
    · obtain rfl : k = n := by omega
      go_wp2
      go_ret
      exact ⟨rfl, hb⟩

def marks : List (Int × Int) := [(-7, -1), (-8, -2)]
theorem in_two (w : World) (B : Nat) (x y x' y' : Int) (t : TypeId) (fz : Nat × Nat) (h : w.heap[B]? = some (.cells #[.int .i64 x, .int .i64 y, .int .i64 x', .int .i64 y'] t fz)) : In EP w (.slice (some ⟨B, 0, none⟩) 2 2) [(x, y), (x', y')] := by
  refine .inr ⟨_, 2, rfl, Nat.le_refl _, by omega, fun j u hu => ?_⟩
  rw [Addr.add_lit, cell_blk h, Nat.zero_add]
  simpa [El.cs, EP] using hu

/-- a shorter slice of the same row -/
theorem R.front {α : Type} {E : El α} (ok : E.Ok) {w : World} {base : Option Addr} {cap : Nat} {l r : List α} (h : R E w (.slice base (l.length + r.length) cap) (l ++ r)) (hne : base = none → l.length + r.length = 0) : R E w (.slice base l.length cap) l := by
  obtain ⟨h1, h2⟩ := h
  refine ⟨ok.length l, ?_⟩
  rcases h2 with ⟨hv, h0⟩ | ⟨g, cap', cur, hv, hb, hg, hn, hm, hs, ht⟩
  · injection hv with e1 e2 e3
    rw [List.length_append] at h0
    have : l.length = 0 := by omega
    exact .inl ⟨by rw [e1, e3, this], this⟩
  · injection hv with e1 e2 e3
    subst e1
    subst e3
    rw [List.length_append] at hn ht
    refine .inr ⟨g, cap, cur, rfl, hb, hg, by omega, hm, hs, ?_⟩
    have e : cur.toList.take (l.length * E.sz) = (cur.toList.take ((l.length + r.length) * E.sz)).take (l.length * E.sz) := by rw [List.take_take, Nat.min_eq_left (Nat.mul_le_mul_right _ (by omega))]
    rw [e, ht, El.cs_append, List.take_append_of_le_length (by rw [ok.length]; exact Nat.le_refl _), List.take_of_length_le (by rw [ok.length]; exact Nat.le_refl _)]

set_option maxRecDepth 100000 in
set_option maxHeartbeats 2000000 in
theorem lent_any (w : World) (v : Value) (l : List (Int × Int)) (hv : In EP w v l) (hlen : (l.length + 2) * 16 ≤ 140737488355328) :
    Calls Tryd.prog 22 #[v] w fun e w' => ∃ g cap, e = .returned (.slice (some ⟨g, 0, none⟩) l.length cap) ∧ R EP w' (.slice (some ⟨g, 0, none⟩) (l.length + 2) cap) (l ++ marks) ∧ w.heap.size ≤ g ∧ Below w.heap.size w w' := by
  obtain ⟨base, cap, w1, hrun1, hP1, hG1⟩ := app okP w (.slice none 0 0) [] (R.nil _ _) v l hv (by simp only [EP, List.length_nil]; omega)
  have hb1 := hG1.fresh
  have hn1 := hG1.new
  rw [List.length_nil, Nat.zero_add] at hrun1 hn1 hP1
  rw [List.nil_append] at hP1
  have hba : Below w1.heap.size w1 (w1.alloc (.cells #[.int .i64 (-7), .int .i64 (-1), .int .i64 (-8), .int .i64 (-2)] 46)) := bel1 _ _
  have hIn := in_two (w1.alloc (.cells #[.int .i64 (-7), .int .i64 (-1), .int .i64 (-8), .int .i64 (-2)] 46)) w1.heap.size (-7) (-1) (-8) (-2) 46 (0, 0) (heap_alloc_new _ _)
  obtain ⟨base2, cap2, w2, hrun2, hP2, hG2⟩ := app okP _ _ l (hP1.below hba) _ _ hIn (by simp only [EP, List.length_cons, List.length_nil]; omega)
  simp only [List.length_cons, List.length_nil, Nat.zero_add] at hrun2 hP2 hG2
  obtain ⟨g, rfl⟩ : ∃ g, base2 = some ⟨g, 0, none⟩ := by
    rcases hP2.2 with ⟨_, h0⟩ | ⟨g, cap', cur, hv, _⟩
    · simp at h0
    · injection hv with e1 _ _
      exact ⟨g, e1⟩
  have hg : w.heap.size ≤ g := by
    rcases hG2.own g rfl with h | h
    · exact hn1 g h
    · have := hb1.size
      rw [size_al] at h
      omega
  have hfin : Hid (R EP w2 (.slice (some ⟨g, 0, none⟩) (l.length + 2) cap2) (l ++ marks) ∧ w.heap.size ≤ g ∧ Below w.heap.size w w2) :=
    ⟨hP2, hg, hb1.trans ((hba.mono hb1.size).trans (hG2.belowB (Nat.le_trans hb1.size hba.size) hn1))⟩
  obtain ⟨_, _, e, hc2, hc3⟩ := hP2.slice
  injection e with e1 e2 e3
  subst e3
  clear e1 e2
  rw [List.length_append] at hc2
  simp only [List.length_cons, List.length_nil, Nat.zero_add] at hc2
  obtain ⟨vb, vc, rfl, hv1, hv2⟩ := hv.slice
  obtain ⟨n, hn⟩ : ∃ n, l.length = n := ⟨_, rfl⟩
  rw [hn] at hrun1 hrun2 hfin hc2 hv1 ⊢
  obtain ⟨n1, hn1'⟩ : ∃ n1, n + 2 = n1 := ⟨_, rfl⟩
  rw [hn1'] at hrun2 hfin ⊢
  have hle : (n : Int) ≤ (cap2 : Int) := by omega
  have hle2 : (n : Int) ≤ (n1 : Int) := by omega
  simp only [EP] at hrun1 hrun2
  replace hrun1 : Hid _ := hrun1
  replace hrun2 : Hid _ := hrun2
  clear hP1 hG1 hP2 hG2 hb1 hba hIn hv hn hlen hn1 hn1'
  go_enter Tryd.func22, Tryd.ntmps22
  go_wp2_with (at_builtin; first | refine Lib.wpList_append_run _ rfl (.tmp 4) (.tmp 5) 30 30 rfl _ _ rfl rfl _ _ hrun1.out ?_ | refine Lib.wpList_append_run _ rfl (.tmp 7) (.tmp 10) 30 30 rfl _ _ rfl rfl _ _ hrun2.out ?_)
  go_ret
  exact ⟨g, cap2, rfl, hfin.out⟩
end Go.Proofs.YtfkimdgbkfogcaaDoor
