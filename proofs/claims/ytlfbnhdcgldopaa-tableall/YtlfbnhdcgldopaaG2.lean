/- Both tables: tells, whole. -/
import Derived.Test.YtlfbnhdcgldopaaG1
namespace Go.Proofs.Ytlfbnhdcgldopaa
open Go.RowKit

/-- What At answers. -/
def atS (es : List E) (i : Int) : ByteArray × ByteArray × Int :=
  if 1 ≤ i then match (fixedL ++ es)[i.toNat - 1]? with
    | some e => (e.1, e.2, 0)
    | none => (⟨#[]⟩, ⟨#[]⟩, 5)
  else (⟨#[]⟩, ⟨#[]⟩, 5)

theorem atS_cases (es : List E) (i : Int) : (∃ (k : Nat) (e : E), i = (k : Int) ∧ 1 ≤ k ∧ (fixedL ++ es)[k - 1]? = some e ∧ atS es i = (e.1, e.2, 0)) ∨ ((i < 1 ∨ 62 + (es.length : Int) ≤ i) ∧ atS es i = (⟨#[]⟩, ⟨#[]⟩, 5)) := by
  by_cases h : 1 ≤ i
  · obtain ⟨k, rfl⟩ : ∃ k : Nat, i = (k : Int) := ⟨i.toNat, by omega⟩
    cases he : (fixedL ++ es)[k - 1]? with
    | some e => exact .inl ⟨k, e, rfl, by omega, he, by simp [atS, he]; omega⟩
    | none =>
      have hf : (fixedL ++ es).length = 61 + es.length := by rw [List.length_append]; rfl
      have := List.getElem?_eq_none_iff.1 he
      exact .inr ⟨.inr (by omega), by simp [atS, he]⟩
  · exact .inr ⟨.inl (by omega), by simp [atS]; omega⟩

theorem at_all (w : World) (b mx : Nat) (es : List E) (v : Value) (h : Tab w b mx es v) (i : Int) :
    Calls Try.prog 13 #[.pointer (some ⟨b, 0, none⟩), .int .i64 i] w fun r w' => r = .returned (.tuple #[.string (atS es i).1, .string (atS es i).2.1, .int .i64 (atS es i).2.2]) ∧ Below w.heap.size w w' := by
  rcases atS_cases es i with ⟨k, e, rfl, h1, he, ha⟩ | ⟨h1, ha⟩
  · rw [ha]
    have hs := h.small (k - 1) e he
    exact at_good w b mx es v h k e h1 he hs.1 hs.2
  · rw [ha]
    refine (at_bad w b mx es v h i h1).mono ?_
    rintro r w' ⟨rfl, rfl⟩
    exact ⟨rfl, Below.refl _ _⟩

theorem rat_all (w : World) (b mx : Nat) (es : List E) (v : Value) (h : RTab w b mx es v) (i : Int) :
    Calls Try.prog 38 #[.pointer (some ⟨b, 0, none⟩), .int .i64 i] w fun r w' => r = .returned (.tuple #[.string (atS es i).1, .string (atS es i).2.1, .int .i64 (atS es i).2.2]) ∧ Below w.heap.size w w' := by
  rcases atS_cases es i with ⟨k, e, rfl, h1, he, ha⟩ | ⟨h1, ha⟩
  · rw [ha]
    exact rat_good w b mx es v h k e h1 he
  · rw [ha]
    refine (rat_bad w b mx es v h i h1).mono ?_
    rintro r w' ⟨rfl, rfl⟩
    exact ⟨rfl, Below.refl _ _⟩

/-- Both tables stand in W, in blocks bp and br. -/
def Pr (w : World) (bp br mx : Nat) (es : List E) (v u : Value) (W : World) : Prop := Tab W bp mx es v ∧ RTab W br mx es u ∧ Below w.heap.size w W

theorem Pr.below {w : World} {bp br mx : Nat} {es : List E} {v u : Value} {W W' : World} (h : Pr w bp br mx es v u W) (hb : Below W.heap.size W W') : Pr w bp br mx es v u W' :=
  ⟨h.1.below hb, h.2.1.below hb, h.2.2.trans (hb.mono h.2.2.size)⟩

/-- .. and a box that points to them. -/
def PrB (w : World) (bp br mx : Nat) (es : List E) (v u : Value) (k : Nat) (W : World) : Prop := W.heap[k]? = some (.cells #[.pointer (some ⟨bp, 0, none⟩), .pointer (some ⟨br, 0, none⟩)] 50 (0, 0)) ∧ Pr w bp br mx es v u W

theorem PrB.below {w : World} {bp br mx : Nat} {es : List E} {v u : Value} {k : Nat} {W W' : World} (h : PrB w bp br mx es v u k W) (hb : Below W.heap.size W W') : PrB w bp br mx es v u k W' :=
  ⟨(hb.block _ (Array.getElem?_eq_some_iff.1 h.1).1).trans h.1, h.2.below hb⟩

theorem PrB.cells {w : World} {bp br mx : Nat} {es : List E} {v u : Value} {k : Nat} {W : World} (h : PrB w bp br mx es v u k W) : W.cell? ⟨k, 0, none⟩ = some (.pointer (some ⟨bp, 0, none⟩)) ∧ W.cell? ⟨k, 1, none⟩ = some (.pointer (some ⟨br, 0, none⟩)) :=
  ⟨by rw [cell_of_row _ _ _ _ _ _ h.1]; rfl, by rw [cell_of_row _ _ _ _ _ _ h.1]; rfl⟩

def PrC (w : World) (bp br mx : Nat) (es : List E) (v u : Value) (k : Nat) (W : World) : Prop := W.cell? ⟨k, 0, none⟩ = some (.pointer (some ⟨bp, 0, none⟩)) ∧ W.cell? ⟨k, 1, none⟩ = some (.pointer (some ⟨br, 0, none⟩)) ∧ PrB w bp br mx es v u k W

theorem PrB.full {w : World} {bp br mx : Nat} {es : List E} {v u : Value} {k : Nat} {W : World} (h : PrB w bp br mx es v u k W) : W.cell? ⟨k, 0, none⟩ = some (.pointer (some ⟨bp, 0, none⟩)) ∧ W.cell? ⟨k, 1, none⟩ = some (.pointer (some ⟨br, 0, none⟩)) ∧ PrB w bp br mx es v u k W := ⟨h.cells.1, h.cells.2, h⟩

theorem prB_new {w : World} {bp br mx : Nat} {es : List E} {v u : Value} (hp : Tab w bp mx es v) (hr : RTab w br mx es u) : PrB w bp br mx es v u w.heap.size (w.alloc (.cells #[.pointer (some ⟨bp, 0, none⟩), .pointer (some ⟨br, 0, none⟩)] 50)) := by
  have hB : Below w.heap.size w (w.alloc (.cells #[.pointer (some ⟨bp, 0, none⟩), .pointer (some ⟨br, 0, none⟩)] 50)) := (Below.refl _ w).alloc (Nat.le_refl _) _
  exact ⟨heap_alloc_new _ _, hp.below hB, hr.below hB, hB⟩

set_option maxRecDepth 100000 in
set_option maxHeartbeats 2000000 in
theorem tells_any (w : World) (bp br mx : Nat) (es : List E) (v u : Value) (hp : Tab w bp mx es v) (hr : RTab w br mx es u) :
    Calls Try.prog 24 #[.agg #[.pointer (some ⟨bp, 0, none⟩), .pointer (some ⟨br, 0, none⟩)]] w fun e w' => e = .returned (.bool true) ∧ Below w.heap.size w w' := by
  have H0 := prB_new hp hr
  clear hp hr
  obtain ⟨T, hT⟩ : ∃ T, T = total es := ⟨_, rfl⟩
  obtain ⟨N, hN⟩ : ∃ N, N = es.length := ⟨_, rfl⟩
  generalize hk : w.heap.size = k at H0
  have c19 : ∀ W, PrB w bp br mx es v u k W → Calls Try.prog 19 #[.pointer (some ⟨bp, 0, none⟩)] W fun e W' => e = .returned (.int .i64 (T : Int)) ∧ PrB w bp br mx es v u k W' := fun W h => by
    refine (tsize_any W bp mx es v h.2.1).mono ?_
    rintro e W' ⟨rfl, rfl⟩
    exact ⟨by rw [hT], h⟩
  have c40 : ∀ W, PrB w bp br mx es v u k W → Calls Try.prog 40 #[.pointer (some ⟨br, 0, none⟩)] W fun e W' => e = .returned (.int .i64 (T : Int)) ∧ PrB w bp br mx es v u k W' := fun W h => by
    refine (rtsize_any W br mx es u h.2.2.1).mono ?_
    rintro e W' ⟨rfl, hb⟩
    exact ⟨by rw [hT], h.below hb⟩
  have c12 : ∀ W, PrB w bp br mx es v u k W → Calls Try.prog 12 #[.pointer (some ⟨bp, 0, none⟩)] W fun e W' => e = .returned (.int .i64 (N : Int)) ∧ PrB w bp br mx es v u k W' := fun W h => by
    refine (len_any W bp mx es v h.2.1).mono ?_
    rintro e W' ⟨rfl, rfl⟩
    exact ⟨by rw [hN], h⟩
  have c41 : ∀ W, PrB w bp br mx es v u k W → Calls Try.prog 41 #[.pointer (some ⟨br, 0, none⟩)] W fun e W' => e = .returned (.int .i64 (N : Int)) ∧ PrB w bp br mx es v u k W' := fun W h => by
    refine (rlen_any W br mx es u h.2.2.1).mono ?_
    rintro e W' ⟨rfl, rfl⟩
    exact ⟨by rw [hN], h⟩
  have c18 : ∀ W, PrB w bp br mx es v u k W → Calls Try.prog 18 #[.pointer (some ⟨bp, 0, none⟩)] W fun e W' => e = .returned (.int .i64 (mx : Int)) ∧ PrB w bp br mx es v u k W' := fun W h => by
    refine (max_any W bp mx es v h.2.1).mono ?_
    rintro e W' ⟨rfl, rfl⟩
    exact ⟨rfl, h⟩
  have c42 : ∀ W, PrB w bp br mx es v u k W → Calls Try.prog 42 #[.pointer (some ⟨br, 0, none⟩)] W fun e W' => e = .returned (.int .i64 (mx : Int)) ∧ PrB w bp br mx es v u k W' := fun W h => by
    refine (rmax_any W br mx es u h.2.2.1).mono ?_
    rintro e W' ⟨rfl, rfl⟩
    exact ⟨rfl, h⟩
  have hend : ∀ W, PrB w bp br mx es v u k W → Below k w W := fun W h => hk ▸ h.2.2.2
  have hdr : ∀ W, PrB w bp br mx es v u k W → PrB w bp br mx es v u k W.drew := fun W h => h.below ⟨rfl, rfl, rfl, Nat.le_refl _, fun _ _ => rfl⟩
  obtain ⟨P, hP⟩ : ∃ P, P = PrB w bp br mx es v u k := ⟨_, rfl⟩
  have hfull : ∀ W, P W → W.cell? ⟨k, 0, none⟩ = some (.pointer (some ⟨bp, 0, none⟩)) ∧ W.cell? ⟨k, 1, none⟩ = some (.pointer (some ⟨br, 0, none⟩)) ∧ P W := fun W h => by subst hP; exact h.full
  rw [← hP] at c19 c40 c12 c41 c18 c42 hend hdr H0
  clear hP hT hN
  replace c19 : Hid _ := c19
  replace c40 : Hid _ := c40
  replace c12 : Hid _ := c12
  replace c41 : Hid _ := c41
  replace c18 : Hid _ := c18
  replace c42 : Hid _ := c42
  replace hend : Hid _ := hend
  replace hdr : Hid _ := hdr
  replace hfull : Hid _ := hfull
  go_enter Try.func24, Try.ntmps24
  go_wp2_with fail
  try rw [hk]
  generalize w.alloc (.cells #[.pointer (some ⟨bp, 0, none⟩), .pointer (some ⟨br, 0, none⟩)] 50) = W0 at H0 ⊢
  go_region_held3 (fun W => W.cell? ⟨k, 0, none⟩ = some (.pointer (some ⟨bp, 0, none⟩)) ∧ W.cell? ⟨k, 1, none⟩ = some (.pointer (some ⟨br, 0, none⟩)) ∧ P W) (first | exact hfull.out _ (hdr.out _ H0) | exact hfull.out _ (by assumption)) (first | (go_at_call 19; refine (c19.out _ (And.right (And.right (by assumption)))).mono ?_; rintro e' w2 ⟨rfl, hb2⟩) | (go_at_call 40; refine (c40.out _ (And.right (And.right (by assumption)))).mono ?_; rintro e' w2 ⟨rfl, hb2⟩) | (go_at_call 12; refine (c12.out _ (And.right (And.right (by assumption)))).mono ?_; rintro e' w2 ⟨rfl, hb2⟩) | (go_at_call 41; refine (c41.out _ (And.right (And.right (by assumption)))).mono ?_; rintro e' w2 ⟨rfl, hb2⟩) | (go_at_call 18; refine (c18.out _ (And.right (And.right (by assumption)))).mono ?_; rintro e' w2 ⟨rfl, hb2⟩) | (go_at_call 42; refine (c42.out _ (And.right (And.right (by assumption)))).mono ?_; rintro e' w2 ⟨rfl, hb2⟩))
  all_goals
    go_wp2
    go_ret
    rename_i hS
    exact ⟨rfl, hend.out _ hS.2.2⟩

set_option maxRecDepth 100000 in
set_option maxHeartbeats 2000000 in
theorem whole_any (w : World) (bp br mx : Nat) (es : List E) (v u : Value) (hp : Tab w bp mx es v) (hr : RTab w br mx es u) :
    Calls Try.prog 25 #[.agg #[.pointer (some ⟨bp, 0, none⟩), .pointer (some ⟨br, 0, none⟩)]] w fun e w' => e = .returned (.bool true) ∧ Below w.heap.size w w' := by
  have H0 := prB_new hp hr
  have hlen := hp.len
  clear hp hr
  obtain ⟨N, hN⟩ : ∃ N, N = es.length := ⟨_, rfl⟩
  rw [← hN] at hlen
  generalize hk : w.heap.size = k at H0
  have c13 : ∀ i : Int, ∃ a b c, (∀ W, PrB w bp br mx es v u k W → Calls Try.prog 13 #[.pointer (some ⟨bp, 0, none⟩), .int .i64 i] W fun e W' => e = .returned (.tuple #[.string a, .string b, .int .i64 c]) ∧ PrB w bp br mx es v u k W') ∧
      (∀ W, PrB w bp br mx es v u k W → Calls Try.prog 38 #[.pointer (some ⟨br, 0, none⟩), .int .i64 i] W fun e W' => e = .returned (.tuple #[.string a, .string b, .int .i64 c]) ∧ PrB w bp br mx es v u k W') := fun i => by
    refine ⟨(atS es i).1, (atS es i).2.1, (atS es i).2.2, fun W h => (at_all W bp mx es v h.2.1 i).mono ?_, fun W h => (rat_all W br mx es u h.2.2.1 i).mono ?_⟩
    all_goals
      rintro e W' ⟨rfl, hb⟩
      exact ⟨rfl, h.below hb⟩
  have c41 : ∀ W, PrB w bp br mx es v u k W → Calls Try.prog 41 #[.pointer (some ⟨br, 0, none⟩)] W fun e W' => e = .returned (.int .i64 (N : Int)) ∧ PrB w bp br mx es v u k W' := fun W h => by
    refine (rlen_any W br mx es u h.2.2.1).mono ?_
    rintro e W' ⟨rfl, rfl⟩
    exact ⟨by rw [hN], h⟩
  have hend : ∀ W, PrB w bp br mx es v u k W → Below k w W := fun W h => hk ▸ h.2.2.2
  obtain ⟨P, hP⟩ : ∃ P, P = PrB w bp br mx es v u k := ⟨_, rfl⟩
  have hfull : ∀ W, P W → W.cell? ⟨k, 0, none⟩ = some (.pointer (some ⟨bp, 0, none⟩)) ∧ W.cell? ⟨k, 1, none⟩ = some (.pointer (some ⟨br, 0, none⟩)) := fun W h => by subst hP; exact h.cells
  rw [← hP] at c13 c41 hend H0
  clear hP hN
  replace c13 : Hid _ := c13
  replace c41 : Hid _ := c41
  replace hend : Hid _ := hend
  replace hfull : Hid _ := hfull
  go_enter Try.func25, Try.ntmps25
  go_wp2_with fail
  try rw [hk]
  generalize w.alloc (.cells #[.pointer (some ⟨bp, 0, none⟩), .pointer (some ⟨br, 0, none⟩)] 50) = W0 at H0 ⊢
  go_loopw [3] (fun i wr => ∃ m : Nat, m ≤ N + 64 ∧ i = .int .i64 ((m : Int) - 1) ∧ P wr) (fun i _ => N + 64 - ((intOf i) + 1).toNat)
  case atStart => exact ⟨0, by omega, rfl, H0⟩
  case round =>
    obtain ⟨m, hm, rfl, hR⟩ := hrel
    obtain ⟨d0, d1⟩ := hfull.out _ hR
    replace hR : Hid (P wr) := hR
    by_cases hlt : m < N + 64
    · have hle : (m : Int) - 1 ≤ 61 + (N : Int) + 1 := by omega
      obtain ⟨a, b, c, h13, h38⟩ := c13.out ((m : Int) - 1)
      replace h13 : Hid _ := h13
      replace h38 : Hid _ := h38
      go_wp2_with fail
      refine (c41.out _ hR.out).mono ?_
      rintro e w1 ⟨rfl, h1⟩
      clear d0 d1 hR
      obtain ⟨d0, d1⟩ := hfull.out _ h1
      go_wp2_with fail
      refine (h13.out _ h1).mono ?_
      rintro e w2 ⟨rfl, h2⟩
      clear d0 d1 h1
      obtain ⟨d0, d1⟩ := hfull.out _ h2
      go_wp2_with fail
      refine (h38.out _ h2).mono ?_
      rintro e w3 ⟨rfl, h3⟩
      clear d0 d1 h2
      go_wp2_with fail
      go_roundw
      case rel => exact ⟨m + 1, by omega, by simp, h3⟩
      case measure => simp [intOf]; omega
    · have hle : ¬ ((m : Int) - 1 ≤ 61 + (N : Int) + 1) := by omega
      go_wp2_with fail
      refine (c41.out _ hR.out).mono ?_
      rintro e w1 ⟨rfl, h1⟩
      clear d0 d1 hR
      go_wp2_with fail
      go_ret
      exact ⟨rfl, hend.out _ h1⟩

end Go.Proofs.Ytlfbnhdcgldopaa
