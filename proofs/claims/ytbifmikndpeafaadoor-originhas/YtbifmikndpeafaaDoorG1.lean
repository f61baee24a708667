/- What is spelt is read: plain facts. -/
import Derived.Test.YtbifmikndpeafaaDoorF2
import Derived.Test.YtbifmikndpeafaaDoorD7
namespace Go.Proofs.YtbifmikndpeafaaDoor
open Go.RowKit
set_option linter.unusedVariables false
set_option linter.unusedSimpArgs false
theorem dec_bytes (u : Nat) : ∀ x ∈ Lib.decDigits u, 48 ≤ x.toNat ∧ x.toNat ≤ 57 := by
  induction u using Nat.strongRecOn with
  | _ u ih =>
    by_cases h : u < 10
    · rw [dec_small h]
      intro x hx
      rw [List.mem_singleton.1 hx, UInt8.toNat_ofNat']
      omega
    · rw [dec_big h]
      intro x hx
      rcases List.mem_append.1 hx with hx | hx
      · exact ih (u / 10) (by omega) x hx
      · rw [List.mem_singleton.1 hx, UInt8.toNat_ofNat']
        omega
theorem num_dec (u : Nat) : numF 0 (Lib.decDigits u) = u := by
  induction u using Nat.strongRecOn with
  | _ u ih =>
    by_cases h : u < 10
    · rw [dec_small h, numF_cons, numF_nil, UInt8.toNat_ofNat']
      omega
    · rw [dec_big h, numF_app, ih (u / 10) (by omega), UInt8.toNat_ofNat']
      omega
theorem dec_zero {u : Nat} (h : 1 ≤ u) : zeroB (Lib.decDigits u) = false ∧ Lib.decDigits u ≠ [] := by
  induction u using Nat.strongRecOn with
  | _ u ih =>
    by_cases h10 : u < 10
    · rw [dec_small h10]
      refine ⟨decide_eq_false ?_, by simp⟩
      rw [UInt8.toNat_ofNat']
      omega
    · obtain ⟨h1, h2⟩ := ih (u / 10) (by omega) (by omega)
      rw [dec_big h10]
      cases hd : Lib.decDigits (u / 10) with
      | nil => exact absurd hd h2
      | cons x r =>
        rw [hd] at h1
        exact ⟨h1, by simp⟩
theorem pt_dec {u : Nat} (h1 : 1 ≤ u) (h2 : u ≤ 65535) {d : ByteArray} (hd : d.data.toList = Lib.decDigits u) : ptN d = u := by
  rw [pt_eq, hd, num_dec, if_pos]
  refine ⟨(dec_zero h1).1, (dec_zero h1).2, List.all_eq_true.2 fun x hx => decide_eq_true (dec_bytes u x hx), h2⟩
theorem pt_bad {d : ByteArray} {x : UInt8} (hx : x ∈ d.data.toList) (h : ¬ (48 ≤ x.toNat ∧ x.toNat ≤ 57)) : ptN d = 0 := by
  rw [pt_eq, if_neg]
  rintro ⟨_, _, h3, _⟩
  exact h (of_decide_eq_true (List.all_eq_true.1 h3 x hx))
theorem ho_all {o : Og} (h : rtB o = true) : ∀ x ∈ o.h.data.toList, hoC x := fun x hx => host_all (rtB_iff.1 h).2.1 x hx
/-- an authority without a colon -/
theorem mn_bare {sc au : ByteArray} (h : 58 ∉ au.data.toList) : mnG sc au = ⟨sc, smS au, usP sc⟩ := by
  unfold mnG hoS poN
  rw [ixB_none h, if_neg (by decide), if_neg (by decide)]
/-- an authority with one -/
theorem mn_colon {sc au : ByteArray} {l r : List UInt8} (e : au.data.toList = l ++ 58 :: r) (h : 58 ∉ l) : mnG sc au = ⟨sc, smS (bt l), (ptN (bt r) : Int)⟩ := by
  have hi := ixB_app (r := r) h
  rw [← e] at hi
  unfold mnG hoS poN
  rw [hi, if_pos (by omega), if_pos (by omega), Int.toNat_natCast]
  have e1 : au.extract 0 l.length = bt l := by
    apply ba_eq
    rw [ext_list, bt_list, e]
    simp
  have e2 : au.extract (l.length + 1) au.size = bt r := by
    apply ba_eq
    rw [ext_list, bt_list, Lib.size_eq, List.take_of_length_le (Nat.le_refl _), e]
    simp
  rw [e1, e2]
/-- however a right origin is spelt, it is meant -/
theorem mn_spelt {o : Og} (h : rtB o = true) (m : Int) (nm : Bool) : mnB o.s (spS o m nm) = true ∧ mnO o.s (spS o m nm) = o := by
  obtain ⟨h1, h2, h3, h4⟩ := rtB_iff.1 h
  obtain ⟨s1, s2⟩ := sm_upL (ho_all h) m
  have key : mnG o.s (spS o m nm) = o := by
    cases ht : spT o nm
    · have e : (spS o m nm).data.toList = up m o.h.data.toList := by unfold spS; rw [bt_list]; unfold spL; rw [ht]; simp
      have hp : o.p = usP o.s := by
        unfold spT at ht
        cases nm
        · simpa using ht
        · simp at ht
      rw [mn_bare (by rw [e]; exact s2), Og.eq_iff]
      refine ⟨rfl, ?_, hp.symm⟩
      apply ba_eq
      rw [sm_list, e, s1]
    · have e : (spS o m nm).data.toList = up m o.h.data.toList ++ 58 :: Lib.decDigits o.p.toNat := by unfold spS; rw [bt_list]; unfold spL; rw [ht]; simp
      rw [mn_colon e s2, Og.eq_iff]
      refine ⟨rfl, ?_, ?_⟩
      · apply ba_eq
        rw [sm_list, bt_list, s1]
      · simp only
        rw [pt_dec (u := o.p.toNat) (by omega) (by omega) (bt_list _)]
        omega
  have hb : mnB o.s (spS o m nm) = true := by unfold mnB; rw [key]; exact h
  refine ⟨hb, ?_⟩
  unfold mnO
  rw [if_pos hb, key]
/-- a scheme, "://" and an authority: the text is cut there -/
def txS (sc au : ByteArray) : ByteArray := sc ++ (⟨#[58, 47, 47]⟩ : ByteArray) ++ au
theorem tx_list (sc au : ByteArray) : (txS sc au).data.toList = sc.data.toList ++ 58 :: 47 :: 47 :: au.data.toList := by
  unfold txS
  simp [ByteArray.data_append]
theorem tx_index {sc au : ByteArray} (h : 58 ∉ sc.data.toList) : Lib.index (txS sc au).data.toList c3S.data.toList = (sc.size : Int) := by
  rw [tx_list, Lib.size_eq]
  generalize sc.data.toList = l at h
  refine Lib.index_first (by simp) ?_ ?_
  · unfold Lib.occAt
    rw [List.drop_left]
    rfl
  · intro j hj
    unfold Lib.occAt
    rw [List.drop_append_of_le_length (by omega), List.drop_eq_getElem_cons hj]
    have : l[j] ≠ 58 := fun e => h (e ▸ List.getElem_mem hj)
    have hb : ((58 : UInt8) == l[j]) = false := beq_eq_false_iff_ne.2 (Ne.symm this)
    show List.isPrefixOf [58, 47, 47] (l[j] :: _) = false
    simp [List.isPrefixOf, hb]
theorem tx_cut {sc au : ByteArray} (h : 58 ∉ sc.data.toList) : c3A (txS sc au) = sc ∧ c3B (txS sc au) = au ∧ c3T (txS sc au) = true := by
  obtain ⟨h1, h2, h3⟩ := cut_at (tx_index (au := au) h)
  refine ⟨?_, ?_, h3⟩
  · rw [h1]
    apply ba_eq
    rw [ext_list, tx_list, List.drop_zero, Lib.size_eq, List.take_left]
  · rw [h2]
    apply ba_eq
    rw [ext_list, List.take_of_length_le (by rw [Lib.size_eq]; exact Nat.le_refl _), tx_list, Lib.size_eq sc, show sc.data.toList ++ 58 :: 47 :: 47 :: au.data.toList = (sc.data.toList ++ [58, 47, 47]) ++ au.data.toList by simp, show sc.data.toList.length + 3 = (sc.data.toList ++ [58, 47, 47]).length by simp, List.drop_left]
theorem sc_plain {o : Og} (h : rtB o = true) : 58 ∉ o.s.data.toList ∧ smS o.s = o.s := by
  rcases usP_cases o.s with ⟨e, _⟩ | ⟨e, _⟩ | ⟨_, _, e⟩
  · rw [e]; decide
  · rw [e]; decide
  · exact absurd e (rtB_iff.1 h).1
theorem pa_tx {o : Og} (h : rtB o = true) (au : ByteArray) : paB (txS o.s au) = mnB o.s au ∧ (mnB o.s au = true → paO (txS o.s au) = mnO o.s au) := by
  obtain ⟨h1, h2⟩ := sc_plain h
  obtain ⟨c1, c2, c3⟩ := tx_cut (au := au) h1
  have hb : paB (txS o.s au) = mnB o.s au := by unfold paB; rw [c1, c2, c3, h2]; rfl
  refine ⟨hb, fun hm => ?_⟩
  unfold paO
  rw [hb, if_pos hm, c1, c2, h2]
/-- what is spelt is read -/
theorem pa_spelt {o : Og} (h : rtB o = true) (m : Int) (nm : Bool) : paO (txS o.s (spS o m nm)) = o ∧ paE (txS o.s (spS o m nm)) = 0 := by
  obtain ⟨h1, h2⟩ := mn_spelt h m nm
  obtain ⟨h3, h4⟩ := pa_tx h (spS o m nm)
  rw [h1] at h3
  refine ⟨by rw [h4 h1, h2], ?_⟩
  unfold paE
  rw [h3]
  rfl
/-- what is printed is the plainest spelling -/
theorem pr_spelt {o : Og} (h : rtB o = true) : prS o = txS o.s (spS o 0 false) := by
  unfold prS
  have hn : (prA o).data.toList = o.s.data.toList ++ 58 :: 47 :: 47 :: o.h.data.toList := by unfold prA; simp [ByteArray.data_append]
  by_cases hp : o.p = usP o.s
  · rw [if_pos hp]
    apply ba_eq
    rw [hn, tx_list]
    unfold spS
    rw [bt_list]
    unfold spL spT
    rw [up_zero, decide_eq_true hp]
    simp
  · rw [if_neg hp]
    apply ba_eq
    rw [tx_list]
    unfold prN spS
    rw [bt_list]
    unfold spL spT
    rw [up_zero, decide_eq_false hp]
    simp only [ByteArray.data_append, Array.toList_append, hn]
    simp [decS, bt]
/-- a byte that no host has -/
theorem pa_bad {o : Og} (h : rtB o = true) {au : ByteArray} (h58 : 58 ∉ au.data.toList) {x : UInt8} (hx : x ∈ au.data.toList) (hb : ¬ (lbB (smC x) = true ∨ (smC x).toNat = 45 ∨ (smC x).toNat = 46)) : paE (txS o.s au) = 150 := by
  have hm : mnB o.s au = false := by
    unfold mnB
    rw [mn_bare h58]
    apply rt_h
    cases hh : hostB (smS au)
    · rfl
    · exact absurd (host_all hh (smC x) (by rw [sm_list]; exact List.mem_map_of_mem hx)) hb
  unfold paE
  rw [(pa_tx h au).1, hm]
  rfl
theorem pa_slash {o : Og} (h : rtB o = true) : paE (prS o ++ (⟨#[47]⟩ : ByteArray)) = 150 := by
  have e0 : prS o ++ (⟨#[47]⟩ : ByteArray) = txS o.s (spS o 0 false ++ (⟨#[47]⟩ : ByteArray)) := by
    rw [pr_spelt h]
    apply ba_eq
    simp [txS, ByteArray.data_append]
  rw [e0]
  have hl : (spS o 0 false ++ (⟨#[47]⟩ : ByteArray)).data.toList = spL o 0 false ++ [47] := by simp [spS, bt, ByteArray.data_append]
  have hho := ho_all h
  have h58 : 58 ∉ o.h.data.toList := fun hm => by
    rcases hho _ hm with h | h | h
    · exact absurd h (by decide)
    · exact absurd h (by decide)
    · exact absurd h (by decide)
  cases ht : spT o false
  · have e : (spS o 0 false ++ (⟨#[47]⟩ : ByteArray)).data.toList = o.h.data.toList ++ [47] := by rw [hl]; unfold spL; rw [ht, up_zero]; simp
    refine pa_bad h (x := 47) (by rw [e]; intro hm; rcases List.mem_append.1 hm with hm | hm; exact h58 hm; exact absurd hm (by decide)) (by rw [e]; simp) (by decide)
  · have e : (spS o 0 false ++ (⟨#[47]⟩ : ByteArray)).data.toList = o.h.data.toList ++ 58 :: (Lib.decDigits o.p.toNat ++ [47]) := by rw [hl]; unfold spL; rw [ht, up_zero]; simp
    have hm : mnB o.s (spS o 0 false ++ (⟨#[47]⟩ : ByteArray)) = false := by
      unfold mnB
      rw [mn_colon e h58, pt_bad (x := 47) (by rw [bt_list]; simp) (by decide)]
      exact rt_p (by simp)
    unfold paE
    rw [(pa_tx h _).1, hm]
    rfl
end Go.Proofs.YtbifmikndpeafaaDoor
