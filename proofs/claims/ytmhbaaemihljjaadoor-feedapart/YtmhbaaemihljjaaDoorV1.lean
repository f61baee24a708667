/- FeedApart: plain facts. -/
import Derived.Test.YtmhbaaemihljjaaDoorV0
import Derived.Test.YtmhbaaemihljjaaDoorR3
namespace Go.Proofs.YtmhbaaemihljjaaDoor
open Go.RowKit
set_option linter.unusedVariables false
set_option linter.unusedSimpArgs false

theorem apK_right (l : List (Int × Int)) (k : Nat) : Right fSet (apK l k) := by
  have hk : kd fSet.ty fSet.fl = (74, 6, 57, 58) := by decide +kernel
  refine ⟨by decide, by decide, by decide, by decide, by decide +kernel, by decide +kernel, by decide +kernel, ?_, ?_⟩
  · have hp : padS fSet = false := by decide +kernel
    rw [hp]
    rfl
  · rw [hk]
    refine ⟨?_, ?_, ?_, ?_, ?_⟩
    · simp [fSet]
    · simp [fSet]
    · simp [fSet]
    · rw [if_pos ⟨rfl, rfl⟩]
      intro q hq
      rcases List.mem_cons.1 hq with rfl | hq
      · decide
      · obtain ⟨a, _, rfl⟩ := List.mem_map.1 hq
        simp only [mk1]
        omega
    · simp [fSet]
theorem set_whole (l : List (Int × Int)) : (wholeB fSet l).length = 6 * l.length := by
  have hk : kd fSet.ty fSet.fl = (74, 6, 57, 58) := by decide +kernel
  have hp : padS fSet = false := by decide +kernel
  rw [whole_no hk hp]
  show (parB l).length = _
  rw [parB_length]
  omega

/-- what Next tells where a right frame waits -/
theorem next_tells (f : Fr) (ps : List (Int × Int)) (h : Right f ps) (X : List UInt8) (most : Int) (hl : (wholeB f ps).length ≤ 65536) (hm : ((wholeB f ps).length : Int) ≤ min (max most 16384) 65536) :
    nextS ⟨⟨#[]⟩, (asmB f ps).data.toList ++ X, most, 0⟩ = ⟨(f, ps), true, 0, 0, ⟨⟨#[]⟩, X, most, 0⟩⟩ := by
  have hr : rdL ((asmB f ps).data.toList ++ X) most = ((f, ps), ((asmB f ps).size : Int), 0, 0) := by
    have := read_app f ps h ⟨X.toArray⟩ most hl hm
    rw [← this]
    unfold rdL
    congr 1
  have hn : nS ⟨⟨#[]⟩, (asmB f ps).data.toList ++ X, most, 0⟩ = 0 := Nat.min_eq_right (Nat.zero_le _)
  have hp : passL ⟨⟨#[]⟩, (asmB f ps).data.toList ++ X, most, 0⟩ = (true, ⟨⟨#[]⟩, (asmB f ps).data.toList ++ X, most, 0⟩) := by
    unfold passL
    rw [hn, if_neg (by simp)]
    rfl
  have hsz := asmB_size f ps
  rw [nextS_eq]
  unfold nextL
  rw [hp]
  simp only [hr, okR, rfS]
  rw [if_neg (by simp), if_neg (by simp)]
  unfold shutR
  have hd : ((asmB f ps).data.toList ++ X).drop ((asmB f ps).size : Int).toNat = X := by
    rw [Int.toNat_natCast, show (asmB f ps).size = (asmB f ps).data.toList.length by rw [Array.length_toList]; rfl, List.drop_left]
  simp [hd]
  omega
end Go.Proofs.YtmhbaaemihljjaaDoor
