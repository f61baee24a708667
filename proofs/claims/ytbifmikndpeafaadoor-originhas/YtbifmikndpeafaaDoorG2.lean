/- What a set has: plain facts. -/
import Derived.Test.YtbifmikndpeafaaDoorG1
import Derived.Test.YtbifmikndpeafaaDoorC3
namespace Go.Proofs.YtbifmikndpeafaaDoor
open Go.RowKit
set_option linter.unusedVariables false
set_option linter.unusedSimpArgs false
theorem hs_spelt {o : Og} (h : rtB o = true) (L : List Og) (m : Int) (nm : Bool) : hsB L o.s (spS o m nm) = L.any (ogD o) := by
  obtain ⟨h1, h2⟩ := mn_spelt h m nm
  unfold hsB
  rw [h1, h2]
  rfl
theorem hs_no {L : List Og} {sc au : ByteArray} (h : mnB sc au = false) : hsB L sc au = false := by
  unfold hsB
  rw [h]
  rfl
theorem ho_58 {o : Og} (h : rtB o = true) : 58 ∉ o.h.data.toList := fun hm => by
  rcases ho_all h _ hm with h | h | h
  · exact absurd h (by decide)
  · exact absurd h (by decide)
  · exact absurd h (by decide)
theorem hs_at {o : Og} (h : rtB o = true) (L : List Og) : hsB L o.s ((⟨#[117, 64]⟩ : ByteArray) ++ o.h) = false := by
  apply hs_no
  have e : ((⟨#[117, 64]⟩ : ByteArray) ++ o.h).data.toList = 117 :: 64 :: o.h.data.toList := by simp [ByteArray.data_append]
  have h58 : 58 ∉ ((⟨#[117, 64]⟩ : ByteArray) ++ o.h).data.toList := by
    rw [e]
    intro hm
    rcases List.mem_cons.1 hm with hm | hm
    · exact absurd hm (by decide)
    · rcases List.mem_cons.1 hm with hm | hm
      · exact absurd hm (by decide)
      · exact ho_58 h hm
  unfold mnB
  rw [mn_bare h58]
  apply rt_h
  cases hh : hostB (smS ((⟨#[117, 64]⟩ : ByteArray) ++ o.h))
  · rfl
  · exact absurd (host_all hh (smC 64) (by rw [sm_list, e]; simp)) (by decide)
theorem hs_x {o : Og} (h : rtB o = true) (L : List Og) (au : ByteArray) : hsB L ((⟨#[120]⟩ : ByteArray) ++ o.s) au = false := by
  apply hs_no
  unfold mnB
  apply rt_s
  unfold mnG
  simp only
  rcases usP_cases o.s with ⟨e, _⟩ | ⟨e, _⟩ | ⟨_, _, e⟩
  · rw [e]; decide
  · rw [e]; decide
  · exact absurd e (rtB_iff.1 h).1
theorem hs_zero {o : Og} (h : rtB o = true) (L : List Og) : hsB L o.s (o.h ++ (⟨#[58, 48]⟩ : ByteArray)) = false := by
  apply hs_no
  have e : (o.h ++ (⟨#[58, 48]⟩ : ByteArray)).data.toList = o.h.data.toList ++ 58 :: [48] := by simp [ByteArray.data_append]
  unfold mnB
  rw [mn_colon e (ho_58 h)]
  have hp : ptN (bt [48]) = 0 := by decide
  rw [hp]
  exact rt_p (by simp)
theorem ogD_comm (a b : Og) : ogD a b = ogD b a := by
  rw [Bool.eq_iff_iff, ogD_iff, ogD_iff]
  exact ⟨Eq.symm, Eq.symm⟩
theorem any_snoc (L : List Og) (o p : Og) : (L ++ [p]).any (ogD o) = (L.any (ogD o) || ogD p o) := by
  rw [List.any_append]
  simp [ogD_comm]
theorem nd_snoc {L : List Og} {p : Og} (h : L.Nodup) (hp : L.any (ogD p) = false) : (L ++ [p]).Nodup := by
  rw [List.nodup_append]
  refine ⟨h, by simp, fun a ha b hb e => ?_⟩
  rw [List.mem_singleton.1 hb] at e
  rw [any_iff.2 (e ▸ ha)] at hp
  cases hp
end Go.Proofs.YtbifmikndpeafaaDoor
