/- The rules that 'made' makes are right. -/
import Derived.Test.YtldnibkgdpeocaaS2
import Derived.Test.YtldnibkgdpeocaaC3
import Derived.Test.YtldnibkgdpeocaaC5
namespace Go.Proofs.Ytldnibkgdpeocaa
open Go.RowKit
set_option linter.unusedVariables false
set_option linter.unusedSimpArgs false

/-- rules that are taken -/
structure OkP (ps : List Pu) : Prop where
  len : ps.length ≤ 64
  each : ∀ p ∈ ps, p.2.length ≤ 8 ∧ tgB p.1 = true ∧ (∀ c ∈ p.2, tgB c = true) ∧ p.2.Nodup
  nd : (ps.map Prod.fst).Nodup
theorem OkP.of {ps : List Pu} (h : OkP ps) {rs : List Ru} (e : rs.map puR = ps) : ofE rs = 0 := by
  have hl : rs.length = ps.length := by rw [← e, List.length_map]
  have hm : ∀ r ∈ rs, puR r ∈ ps := fun r hr => by rw [← e]; exact List.mem_map_of_mem hr
  have ht : rs.map Ru.t = ps.map Prod.fst := by rw [← e, List.map_map]; rfl
  unfold ofE
  rw [if_neg (by have := h.len; omega)]
  rw [if_neg, if_neg, if_neg, if_pos]
  · rw [ht]; exact ndB_iff.2 h.nd
  · rw [Bool.not_eq_true, List.any_eq_false]
    intro r hr h1
    have h2 := (h.each _ (hm r hr)).2.2.2
    unfold twiceB at h1
    have h3 : ndB r.l = true := ndB_iff.2 h2
    unfold ndB at h3
    rw [h1] at h3
    cases h3
  · rw [Bool.not_eq_true, List.any_eq_false]
    intro r hr h1
    have h2 := h.each _ (hm r hr)
    unfold wrongB badT at h1
    rw [Bool.or_eq_true] at h1
    rcases h1 with h1 | h1
    · have := h2.2.1
      simp [puR] at this
      rw [this] at h1
      cases h1
    · obtain ⟨c, hc, h3⟩ := List.any_eq_true.1 h1
      have := h2.2.2.1 c hc
      rw [this] at h3
      cases h3
  · rw [Bool.not_eq_true, List.any_eq_false]
    intro r hr h1
    have h2 := (h.each _ (hm r hr)).1
    unfold longB at h1
    have := of_decide_eq_true h1
    simp [puR] at h2
    omega
theorem pg_ok : ∀ m, m < 16 → tgB (pgT m) = true := sixteen (by decide +kernel)
theorem pg_tz (m : Nat) : tz (pgT m) := ⟨by show hostS.size ≤ _; decide, by show (2 : Nat) ≤ _; decide⟩
theorem pg_inj {a b : Nat} (ha : a < 16) (hb : b < 16) (h : pgT a = pgT b) : a = b := by
  unfold pgT at h
  have h1 := congrArg (fun t : Tg => t.2.data[1]!) h
  simp at h1
  have h2 : (97 + a).toUInt8.toNat = (97 + b).toUInt8.toNat := by rw [show (97 + a).toUInt8 = (97 + b).toUInt8 from by simpa using h1]
  simp at h2
  omega
theorem addP_ok {i : Nat} {p : List Tg} {e : Eg} (h : p.length ≤ 8 ∧ p.Nodup ∧ ∀ c ∈ p, ∃ m, m < 16 ∧ c = pgT m) : (addP i p e).length ≤ 8 ∧ (addP i p e).Nodup ∧ ∀ c ∈ addP i p e, ∃ m, m < 16 ∧ c = pgT m := by
  unfold addP
  split
  · rename_i hc
    refine ⟨by simp; omega, ?_, fun c hc' => ?_⟩
    · rw [List.nodup_append]
      exact ⟨h.2.1, by simp, fun a ha b hb => by rw [List.mem_singleton.1 hb]; exact fun e => inB_not.1 hc.2.1 (e ▸ ha)⟩
    · rcases List.mem_append.1 hc' with h' | h'
      · exact h.2.2 c h'
      · exact ⟨_, pgN_lt _, List.mem_singleton.1 h'⟩
  · exact h
theorem psh_ok (es : List Eg) (i : Nat) : (psh es i).length ≤ 8 ∧ (psh es i).Nodup ∧ ∀ c ∈ psh es i, ∃ m, m < 16 ∧ c = pgT m := by
  unfold psh
  have : ∀ (es : List Eg) (p : List Tg), (p.length ≤ 8 ∧ p.Nodup ∧ ∀ c ∈ p, ∃ m, m < 16 ∧ c = pgT m) → (es.foldl (addP i) p).length ≤ 8 ∧ (es.foldl (addP i) p).Nodup ∧ ∀ c ∈ es.foldl (addP i) p, ∃ m, m < 16 ∧ c = pgT m := by
    intro es
    induction es with
    | nil => intro p h; exact h
    | cons e es ih => intro p h; exact ih _ (addP_ok h)
  exact this es [] (by simp)
theorem mem_mkR {es : List Eg} {k : Nat} {p : Pu} (h : p ∈ mkR es k) : ∃ i, i < k ∧ p = (pgT i, psh es i) := by
  unfold mkR at h
  obtain ⟨i, hi, hp⟩ := List.mem_flatMap.1 h
  unfold one at hp
  split at hp
  · simp at hp
  · exact ⟨i, List.mem_range.1 hi, List.mem_singleton.1 hp⟩
theorem mkR_nd (es : List Eg) : ∀ k, k ≤ 16 → ((mkR es k).map Prod.fst).Nodup
  | 0, _ => by simp [mkR]
  | k + 1, h => by
    rw [mkR_succ, List.map_append, List.nodup_append]
    refine ⟨mkR_nd es k (by omega), ?_, fun a ha b hb => ?_⟩
    · unfold one; split <;> simp
    · obtain ⟨p, hp, rfl⟩ := List.mem_map.1 ha
      obtain ⟨q, hq, rfl⟩ := List.mem_map.1 hb
      obtain ⟨i, hi, rfl⟩ := mem_mkR hp
      unfold one at hq
      split at hq
      · simp at hq
      · rw [List.mem_singleton.1 hq]
        exact fun e => by have := pg_inj (by omega) (by omega) e; omega
theorem mkR_ok (es : List Eg) : OkP (mkR es 16) := ⟨by have := mkR_len es 16; omega, fun p hp => by
  obtain ⟨i, hi, rfl⟩ := mem_mkR hp
  have h := psh_ok es i
  exact ⟨h.1, pg_ok i hi, fun c hc => by obtain ⟨m, hm, rfl⟩ := h.2.2 c hc; exact pg_ok m hm, h.2.1⟩, mkR_nd es 16 (Nat.le_refl _)⟩
theorem names_in {w : World} {rs : List Ru} (h : PsIn w rs) (t : Tg) : In ET w (sv (yR rs t)) (nmR rs t) := by
  unfold yR nmR
  cases hf : rs.find? (fun r => decide (r.t = t)) with
  | none => exact .inl ⟨rfl, rfl⟩
  | some r => exact h r (List.mem_of_find?_eq_some hf)
/-- what a law knows of rules that are only read from now on -/
structure Rd (w : World) (r : SV) (ps : List Pu) : Prop where
  ok : ∃ rs : List Ru, In ER w (sv r) rs ∧ PsIn w rs ∧ rs.map puR = ps
theorem Rd.below {w w' : World} {r : SV} {ps : List Pu} (h : Rd w r ps) (hb : Below w.heap.size w w') : Rd w' r ps := by
  obtain ⟨rs, h1, h2, h3⟩ := h.ok
  exact ⟨rs, h1.below hb, h2.below hb, h3⟩
theorem Rd.names {w : World} {r : SV} {ps : List Pu} (h : Rd w r ps) (t : Tg) : Calls Try.prog 15 #[sv r, .agg (tgv t)] w fun e w' => ∃ y : SV, e = .returned (sv y) ∧ In ET w' (sv y) (nmP ps t) ∧ Below w.heap.size w w' := by
  obtain ⟨rs, h1, h2, h3⟩ := h.ok
  refine (names_any r rs t w h1).mono ?_
  rintro e w' ⟨rfl, hb⟩
  refine ⟨_, rfl, ?_, hb⟩
  rw [← h3, ← nmR_eq]
  exact (names_in h2 t).below hb
theorem OwPost.rd {ps : List Pu} {w : World} {e : Ending} {w' : World} (h : OwPost ps w e w') : ∃ y : SV, e = .returned (sv y) ∧ Rd w' y ps ∧ Below w.heap.size w w' := by
  obtain ⟨y, rs, h1, h2, h3, h4, h5, h6⟩ := h
  exact ⟨y, h1, ⟨rs, h2.isIn, fun r hr => (h3 r hr).isIn, h4⟩, h5⟩
theorem Rd.own {w : World} {r : SV} {ps : List Pu} (h : Rd w r ps) (hz : ps.length * 56 ≤ 140737488355328) (hz2 : ∀ p ∈ ps, p.2.length * 32 ≤ 140737488355328) : Calls Try.prog 9 #[sv r] w fun e w' => ∃ y : SV, e = .returned (sv y) ∧ Rd w' y ps ∧ Below w.heap.size w w' := by
  obtain ⟨rs, h1, h2, h3⟩ := h.ok
  refine (own_any r rs w h1 h2 (by rw [← h3, List.length_map] at hz; exact hz) (fun x hx => hz2 (puR x) (by rw [← h3]; exact List.mem_map_of_mem hx))).mono ?_
  intro e w' h
  rw [h3] at h
  exact h.rd
theorem Rd.of {w : World} {r : SV} {ps : List Pu} (h : Rd w r ps) (hok : OkP ps) : Calls Try.prog 8 #[sv r] w fun e w' => ∃ g, e = .returned (.tuple #[.pointer (some ⟨g, 0, none⟩), .int .i64 0]) ∧ MM w' w.heap.size w'.heap.size g ps ∧ Below w.heap.size w w' := by
  obtain ⟨rs, h1, h2, h3⟩ := h.ok
  refine (of_any r rs w h1 h2).mono ?_
  rintro e w' ⟨hb, hc⟩
  rcases hc with ⟨h4, _⟩ | ⟨_, g, rfl, h5⟩
  · exact absurd (hok.of h3) h4
  · rw [h3] at h5
    exact ⟨g, rfl, MM.of h5, hb⟩
end Go.Proofs.Ytldnibkgdpeocaa
