/- VaryTold: what was told is told again. -/
import Derived.Test.YtckdldbheejmhaaDoorH1
import Derived.Test.YtckdldbheejmhaaDoorK1
namespace Go.Proofs.YtckdldbheejmhaaDoor
open Go.RowKit
set_option linter.unusedVariables false
set_option linter.unusedSimpArgs false

theorem cutL_nc : ∀ (l p : List UInt8), p ∈ cutL l → ∀ x ∈ p, x ≠ 44
  | [], p, h => by simp [cutL] at h; subst h; simp
  | c :: r, p, h => by
    rw [cutL] at h
    split at h
    · rcases List.mem_cons.1 h with rfl | h
      · simp
      · exact cutL_nc r p h
    · rename_i hc
      split at h
      · simp at h
        subst h
        intro x hx
        simp at hx
        rw [hx]; exact hc
      · rename_i q ps hq
        rcases List.mem_cons.1 h with rfl | h
        · intro x hx
          rcases List.mem_cons.1 hx with rfl | hx
          · exact hc
          · exact cutL_nc r q (by rw [hq]; simp) x hx
        · exact cutL_nc r p (by rw [hq]; simp [h])
theorem cutL_app : ∀ (a b : List UInt8), (∀ x ∈ a, x ≠ 44) → cutL (a ++ 44 :: b) = a :: cutL b
  | [], b, _ => by simp [cutL]
  | c :: r, b, h => by
    have hc : c ≠ 44 := h c (by simp)
    have ih := cutL_app r b fun x hx => h x (by simp [hx])
    rw [List.cons_append, cutL, if_neg hc, ih]
/-- small letters stay -/
theorem smC_two (x : UInt8) : smC (smC x) = smC x := by
  by_cases h : 65 ≤ x.toNat ∧ x.toNat ≤ 90
  · exact smC_id (by rw [smC_up h.1 h.2]; omega)
  · rw [smC_id h, smC_id h]
theorem smC_comma {x : UInt8} (h : x ≠ 44) : smC x ≠ 44 := by
  by_cases h1 : 65 ≤ x.toNat ∧ x.toNat ≤ 90
  · intro e
    have := smC_up h1.1 h1.2
    rw [e] at this
    have h2 : (44 : UInt8).toNat = 44 := rfl
    omega
  · rw [smC_id h1]; exact h
theorem smC_blank {x : UInt8} (h : blB x = false) : blB (smC x) = false := by
  by_cases h1 : 65 ≤ x.toNat ∧ x.toNat ≤ 90
  · cases hb : blB (smC x)
    · rfl
    · have := smC_up h1.1 h1.2
      rcases blB_iff.1 hb with e | e <;> omega
  · rw [smC_id h1]; exact h
theorem grC_comma {x : UInt8} (h : x ≠ 44) : grC x ≠ 44 := by
  by_cases h1 : 97 ≤ x.toNat ∧ x.toNat ≤ 122
  · intro e
    have := grC_up h1.1 h1.2
    rw [e] at this
    have h2 : (44 : UInt8).toNat = 44 := rfl
    omega
  · rw [grC_id h1]; exact h
theorem grC_blank {x : UInt8} (h : blB x = false) : blB (grC x) = false := by
  by_cases h1 : 97 ≤ x.toNat ∧ x.toNat ≤ 122
  · cases hb : blB (grC x)
    · rfl
    · have := grC_up h1.1 h1.2
      rcases blB_iff.1 hb with e | e <;> omega
  · rw [grC_id h1]; exact h
theorem sm_gr {x : UInt8} (h : smC x = x) : smC (grC x) = x := by
  by_cases h1 : 97 ≤ x.toNat ∧ x.toNat ≤ 122
  · have e := grC_up h1.1 h1.2
    apply UInt8.toNat_inj.1
    rw [smC_up (by omega) (by omega), e]
    omega
  · rw [grC_id h1]; exact h
/-- a name as it is told -/
structure NmOk (p : List UInt8) : Prop where
  nc : ∀ x ∈ p, x ≠ 44
  hd : ∀ x, p.head? = some x → blB x = false
  la : ∀ x, p.getLast? = some x → blB x = false
  sm : ∀ x ∈ p, smC x = x
theorem drop_head (P : UInt8 → Bool) : ∀ (l : List UInt8) (x : UInt8), (l.dropWhile P).head? = some x → P x = false
  | [], x, h => by simp at h
  | c :: r, x, h => by
    rw [List.dropWhile_cons] at h
    split at h
    · exact drop_head P r x h
    · rename_i hc
      simp at h
      rw [← h]; simpa using hc
theorem drop_split (P : UInt8 → Bool) : ∀ (l : List UInt8), ∃ t, l = t ++ l.dropWhile P
  | [] => ⟨[], rfl⟩
  | c :: r => by
    rw [List.dropWhile_cons]
    split
    · obtain ⟨t, ht⟩ := drop_split P r
      exact ⟨c :: t, by rw [List.cons_append, ← ht]⟩
    · exact ⟨[], rfl⟩
theorem drop_last (P : UInt8 → Bool) (l : List UInt8) (x : UInt8) (h : (l.dropWhile P).getLast? = some x) : l.getLast? = some x := by
  obtain ⟨t, ht⟩ := drop_split P l
  rw [ht]
  cases hd : l.dropWhile P with
  | nil => rw [hd] at h; simp at h
  | cons a r => rw [hd] at h; rw [List.getLast?_append, h]; rfl
theorem drop_mem (P : UInt8 → Bool) (l : List UInt8) (x : UInt8) (h : x ∈ l.dropWhile P) : x ∈ l := by
  obtain ⟨t, ht⟩ := drop_split P l
  rw [ht]; simp [h]
theorem drop_len (P : UInt8 → Bool) (l : List UInt8) : (l.dropWhile P).length ≤ l.length := by
  obtain ⟨t, ht⟩ := drop_split P l
  have := congrArg List.length ht
  rw [List.length_append] at this
  omega
theorem trimS_len (l : List UInt8) : (Lib.trimS l [32, 9]).length ≤ l.length := by
  unfold Lib.trimS Lib.trimLeftS Lib.trimRightS
  refine Nat.le_trans (drop_len _ _) ?_
  rw [List.length_reverse]
  refine Nat.le_trans (drop_len _ _) ?_
  rw [List.length_reverse]
  exact Nat.le_refl _
theorem piece_ok {q : List UInt8} (h : ∀ x ∈ q, x ≠ 44) : NmOk (smL (Lib.trimS q [32, 9])) := by
  have hm : ∀ x ∈ Lib.trimS q [32, 9], x ∈ q := fun x hx => by
    unfold Lib.trimS Lib.trimLeftS Lib.trimRightS at hx
    have := drop_mem _ _ _ hx
    rw [List.mem_reverse] at this
    have := drop_mem _ _ _ this
    rwa [List.mem_reverse] at this
  refine ⟨fun x hx => ?_, fun x hx => ?_, fun x hx => ?_, fun x hx => ?_⟩
  · obtain ⟨y, hy, rfl⟩ := List.mem_map.1 hx
    exact smC_comma (h y (hm y hy))
  · unfold smL at hx
    rw [List.head?_map] at hx
    obtain ⟨y, hy, rfl⟩ := Option.map_eq_some_iff.1 hx
    exact smC_blank (drop_head _ _ _ hy)
  · unfold smL at hx
    rw [List.getLast?_map] at hx
    obtain ⟨y, hy, rfl⟩ := Option.map_eq_some_iff.1 hx
    refine smC_blank ?_
    have h1 := drop_last _ _ _ hy
    unfold Lib.trimRightS at h1
    rw [List.getLast?_reverse] at h1
    exact drop_head _ _ _ h1
  · obtain ⟨y, hy, rfl⟩ := List.mem_map.1 hx
    exact smC_two y
/-- a name in great letters between blanks -/
theorem piece_back {p : List UInt8} (h : NmOk p) (hp : p ≠ []) : smL (Lib.trimS ([32, 9] ++ (p.map grC ++ [32])) [32, 9]) = p := by
  have e : Lib.trimS ([32, 9] ++ (p.map grC ++ [32])) [32, 9] = (([32, 9] ++ (p.map grC ++ [32])).drop 2).take p.length := by
    have hl : p.length ≠ 0 := fun e => hp (List.length_eq_zero_iff.1 e)
    refine trim_two _ 2 p.length (by simp) (by simp) (fun j b hj hb => ?_) (fun b hb => ?_) (fun j b hj hb => ?_) (fun b h0 hb => ?_)
    · match j, hj with
      | 0, _ => simp at hb; rw [← hb]; rfl
      | 1, _ => simp at hb; rw [← hb]; rfl
    · cases p with
      | nil => exact absurd rfl hp
      | cons a r =>
        simp at hb
        rw [← hb]
        exact grC_blank (h.hd a rfl)
    · simp only [List.cons_append, List.nil_append, List.drop_succ_cons, List.drop_zero] at hb
      rw [List.getElem?_append_right (by simpa using hj)] at hb
      simp only [List.length_map] at hb
      have : j - p.length = 0 := by
        have := (List.getElem?_eq_some_iff.1 hb).1
        simp at this
        omega
      rw [this] at hb
      simp at hb
      rw [← hb]; rfl
    · simp only [List.cons_append, List.nil_append, List.drop_succ_cons, List.drop_zero] at hb
      rw [List.getElem?_append_left (by simp; omega), List.getElem?_map] at hb
      obtain ⟨y, hy, rfl⟩ := Option.map_eq_some_iff.1 hb
      exact grC_blank (h.la y (by rw [List.getLast?_eq_getElem?]; exact hy))
  rw [e]
  simp only [List.cons_append, List.nil_append, List.drop_succ_cons, List.drop_zero]
  rw [List.take_left' (by simp), smL, List.map_map]
  conv => rhs; rw [← List.map_id p]
  exact List.map_congr_left fun x hx => sm_gr (h.sm x hx)
/-- the names told as one text -/
def tdL : List ByteArray → List UInt8
  | [] => []
  | p :: r => [32, 9] ++ (grL p.data.toList ++ [32, 44, 44]) ++ tdL r
theorem tdL_app : ∀ (a b : List ByteArray), tdL (a ++ b) = tdL a ++ tdL b
  | [], b => rfl
  | p :: r, b => by rw [List.cons_append, tdL, tdL, tdL_app r b]; simp only [List.append_assoc]
theorem tdL_len : ∀ (l : List ByteArray) (M : Nat), (∀ p ∈ l, p.size ≤ M) → (tdL l).length ≤ l.length * (M + 5)
  | [], M, _ => by simp [tdL]
  | p :: r, M, h => by
    have h1 := tdL_len r M fun q hq => h q (by simp [hq])
    have h2 := h p (by simp)
    rw [Lib.size_eq] at h2
    simp only [tdL, List.length_append, List.length_cons, List.length_nil, grL, List.length_map]
    rw [Nat.add_mul]
    omega
def pcL (q : List UInt8) : ByteArray := bt (smL (Lib.trimS q [32, 9]))
theorem pcS_bt (q : List UInt8) : pcS (bt q) = pcL q := by
  unfold pcS pcL smS
  simp only [bt]
theorem cut_told : ∀ (l : List ByteArray), (∀ p ∈ l, NmOk p.data.toList ∧ p ≠ noS) → (cutL (tdL l)).map pcL = (l.flatMap fun p => [p, noS]) ++ [noS]
  | [], _ => by
    simp [tdL, cutL, pcL, smL, Lib.trimS, Lib.trimLeftS, Lib.trimRightS, bt, noS]
  | p :: r, h => by
    have ih := cut_told r fun q hq => h q (by simp [hq])
    obtain ⟨h1, h2⟩ := h p (by simp)
    have hne : p.data.toList ≠ [] := fun e => h2 (by
      have : p = bt p.data.toList := (bt_self p).symm
      rw [this, e]; rfl)
    have e : tdL (p :: r) = ([32, 9] ++ (p.data.toList.map grC ++ [32])) ++ 44 :: ([] ++ 44 :: tdL r) := by
      simp [tdL, grL]
    rw [e, cutL_app _ _ (fun x hx => by
      simp only [List.mem_append, List.mem_cons, List.not_mem_nil, or_false, List.mem_map] at hx
      rcases hx with (rfl | rfl) | ⟨y, hy, rfl⟩ | rfl
      · decide
      · decide
      · exact grC_comma (h1.nc y hy)
      · decide), cutL_app _ _ (by simp), List.map_cons, List.map_cons, ih]
    have e1 : pcL ([32, 9] ++ (p.data.toList.map grC ++ [32])) = p := by
      unfold pcL
      rw [piece_back h1 hne, bt_self]
    have e2 : pcL [] = noS := by simp [pcL, smL, Lib.trimS, Lib.trimLeftS, Lib.trimRightS, bt, noS]
    rw [e1, e2]
    simp
theorem cnt_app (a b : List ByteArray) (p : ByteArray) : cnt (a ++ b) p = cnt a p + cnt b p := List.countP_append
theorem nmG_told : ∀ (l seen : List ByteArray), l.Nodup → (∀ p ∈ l, p ≠ noS ∧ p ≠ starS ∧ cnt seen p = 0) → nmG seen (l.flatMap fun p => [p, noS]) = l
  | [], seen, _, _ => rfl
  | p :: r, seen, hn, h => by
    obtain ⟨h1, h2, h3⟩ := h p (by simp)
    obtain ⟨hn1, hn2⟩ := List.nodup_cons.1 hn
    rw [List.flatMap_cons, List.cons_append, List.cons_append, List.nil_append, nmG, if_neg (by simp [h1, h2, h3]), nmG, if_pos (.inr (.inl rfl)), nmG_told r _ hn2 fun q hq => ?_]
    · rfl
    · obtain ⟨k1, k2, k3⟩ := h q (by simp [hq])
      refine ⟨k1, k2, ?_⟩
      rw [cnt_snoc, cnt_snoc, k3, if_neg (fun (e : p = q) => hn1 (by rw [e]; exact hq)), if_neg (Ne.symm k1)]
theorem nmG_none : ∀ (l seen : List ByteArray), (∀ p ∈ l, cnt seen p ≠ 0 ∨ p = noS ∨ p = starS) → nmG seen l = []
  | [], seen, _ => rfl
  | p :: r, seen, h => by
    rw [nmG, if_pos (h p (by simp)), nmG_none r _ fun q hq => ?_]
    · rfl
    · rcases h q (by simp [hq]) with e | e
      · left; rw [cnt_snoc]; omega
      · exact .inr e
theorem nmG_nodup : ∀ (l seen : List ByteArray), (nmG seen l).Nodup
  | [], _ => List.nodup_nil
  | p :: r, seen => by
    rw [nmG]
    split
    · exact nmG_nodup r _
    · rw [List.cons_append, List.nil_append, List.nodup_cons]
      refine ⟨fun hm => ?_, nmG_nodup r _⟩
      have := ((mem_nmG p r _).1 hm).1
      rw [cnt_snoc, if_pos rfl] at this
      omega
def stL (star : Bool) : List ByteArray := if star then [starS] else []
/-- told twice, with a star or without: the names again -/
theorem told_names (l : List ByteArray) (star : Bool) (hn : l.Nodup) (h : ∀ p ∈ l, p ≠ noS ∧ p ≠ starS) :
    nmL ((stL star ++ ((l.flatMap fun p => [p, noS]) ++ [noS])) ++ (stL star ++ ((l.flatMap fun p => [p, noS]) ++ [noS]))) = l ∧
    decide (0 < cnt ((stL star ++ ((l.flatMap fun p => [p, noS]) ++ [noS])) ++ (stL star ++ ((l.flatMap fun p => [p, noS]) ++ [noS]))) starS) = star := by
  have hst : ∀ p, p ≠ starS → cnt (stL star) p = 0 := fun p hp => by
    cases star
    · rfl
    · rw [cnt_zero]; simp [stL, hp]
  have e1 : nmG [] (stL star) = [] := nmG_none _ _ fun p hp => by
    cases star
    · simp [stL] at hp
    · simp [stL] at hp; exact .inr (.inr hp)
  constructor
  · unfold nmL
    rw [nmG_app, nmG_app, e1, nmG_app, List.nil_append, List.nil_append, nmG_told l _ hn fun p hp => ⟨(h p hp).1, (h p hp).2, hst p (h p hp).2⟩, nmG_none [noS] _ fun p hp => .inr (.inl (by simpa using hp)), List.append_nil, nmG_none _ _ fun p hp => ?_, List.append_nil]
    by_cases h1 : p = noS
    · exact .inr (.inl h1)
    · by_cases h2 : p = starS
      · exact .inr (.inr h2)
      · left
        intro e
        rw [cnt_zero] at e
        exact e hp
  · have hf : cnt ((l.flatMap fun p => [p, noS]) ++ [noS]) starS = 0 := by
      rw [cnt_zero]
      intro hm
      rcases List.mem_append.1 hm with hm | hm
      · obtain ⟨p, hp, hm⟩ := List.mem_flatMap.1 hm
        simp only [List.mem_cons, List.not_mem_nil, or_false] at hm
        rcases hm with e | e
        · exact (h p hp).2 e.symm
        · exact absurd e (by decide)
      · simp at hm
        exact absurd hm (by decide)
    rw [cnt_app, cnt_app, hf]
    cases star <;> decide
theorem allP_ok {vs : List ByteArray} {p : ByteArray} (h : p ∈ allP vs) : NmOk p.data.toList ∧ ∃ v ∈ vs, p.size ≤ v.size := by
  obtain ⟨v, hv, hp⟩ := List.mem_flatMap.1 h
  obtain ⟨x, hx, rfl⟩ := List.mem_map.1 hp
  have hx' := hx
  obtain ⟨q, hq, rfl⟩ := List.mem_map.1 hx
  rw [pcS_bt]
  refine ⟨by rw [pcL, bt_list]; exact piece_ok (cutL_nc _ _ hq), v, hv, ?_⟩
  have h1 := trimS_len q
  have h2 := cutS_size hx'
  rw [bt_size] at h2
  rw [pcL, bt_size, smL, List.length_map]
  omega
theorem nm_ok {vs : List ByteArray} {p : ByteArray} (h : p ∈ nmL (allP vs)) : NmOk p.data.toList ∧ p ≠ noS ∧ p ≠ starS ∧ ∃ v ∈ vs, p.size ≤ v.size := by
  obtain ⟨h1, h2, h3⟩ := (mem_nmL p _).1 h
  have hm : p ∈ allP vs := by
    by_cases hm : p ∈ allP vs
    · exact hm
    · exact absurd ((cnt_zero _ _).2 hm) h1
  obtain ⟨h4, h5⟩ := allP_ok hm
  exact ⟨h4, h2, h3, h5⟩
/-- the whole text -/
def tdS (star : Bool) (l : List ByteArray) : ByteArray := bt ((if star then [42, 44] else []) ++ tdL l)
theorem cut_tdS (star : Bool) (l : List ByteArray) (h : ∀ p ∈ l, NmOk p.data.toList ∧ p ≠ noS) : (cutS (tdS star l)).map pcS = stL star ++ ((l.flatMap fun p => [p, noS]) ++ [noS]) := by
  have e : (cutS (tdS star l)).map pcS = (cutL ((if star then [42, 44] else []) ++ tdL l)).map pcL := by
    unfold cutS tdS
    rw [bt_list, List.map_map]
    exact List.map_congr_left fun q _ => pcS_bt q
  rw [e]
  cases star
  · simp only [Bool.false_eq_true, if_false, List.nil_append, stL]
    exact cut_told l h
  · simp only [if_true, stL]
    rw [show [42, 44] ++ tdL l = [42] ++ 44 :: tdL l from rfl, cutL_app _ _ (by simp), List.map_cons, cut_told l h]
    rfl
theorem told_again (vs : List ByteArray) (star : Bool) : nmL (allP [tdS star (nmL (allP vs)), tdS star (nmL (allP vs))]) = nmL (allP vs) ∧ decide (0 < cnt (allP [tdS star (nmL (allP vs)), tdS star (nmL (allP vs))]) starS) = star := by
  have e : allP [tdS star (nmL (allP vs)), tdS star (nmL (allP vs))] = (stL star ++ (((nmL (allP vs)).flatMap fun p => [p, noS]) ++ [noS])) ++ (stL star ++ (((nmL (allP vs)).flatMap fun p => [p, noS]) ++ [noS])) := by
    have e0 : ∀ a : ByteArray, allP [a, a] = (cutS a).map pcS ++ (cutS a).map pcS := fun a => by
      unfold allP
      rw [List.flatMap_cons, List.flatMap_cons, List.flatMap_nil, List.append_nil]
    rw [e0, cut_tdS _ _ fun p hp => ⟨(nm_ok hp).1, (nm_ok hp).2.1⟩]
  rw [e]
  exact told_names _ star (nmG_nodup _ _) fun p hp => ⟨(nm_ok hp).2.1, (nm_ok hp).2.2.1⟩
end Go.Proofs.YtckdldbheejmhaaDoor
