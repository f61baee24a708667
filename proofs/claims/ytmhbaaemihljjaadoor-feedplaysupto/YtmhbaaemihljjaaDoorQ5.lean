/- Op.text: a text, of no great size. -/
import Derived.Test.YtmhbaaemihljjaaDoorK9
namespace Go.Proofs.YtmhbaaemihljjaaDoor
open Go.RowKit
set_option linter.unusedVariables false
set_option linter.unusedSimpArgs false

set_option maxRecDepth 100000 in
set_option maxHeartbeats 2000000 in
theorem text_any (kind : Int) (two : Bool) (s : ByteArray) (n N : Int) (w : World) (hs : s.size ≤ 1048576) :
    Calls Tryd.prog 21 #[.agg #[.int .i64 kind, .bool two, .string s, .int .i64 n, .int .i64 N]] w fun e w' => (∃ T : ByteArray, e = .returned (.string T) ∧ T.size ≤ 1118576) ∧ Below w.heap.size w w' := by
  have hbel : Hid (Below w.heap.size w (w.alloc (.cells #[.int .i64 kind, .bool two, .string s, .int .i64 n, .int .i64 N] 65))) := (Below.refl _ w).alloc (Nat.le_refl _) _
  go_enter Tryd.func21, Tryd.ntmps21
  go_wp2_with fail
  go_loopw [3, 4] (fun t i wr => ∃ (T : ByteArray) (k : Int), t = .string T ∧ i = .int .i64 k ∧ 1 ≤ k ∧ T.size ≤ 1118576 ∧ (T.size = 0 ∨ (1 ≤ s.size ∧ k ≤ (T.size : Int))) ∧ wr = w.alloc (.cells #[.int .i64 kind, .bool two, .string s, .int .i64 n, .int .i64 N] 65)) (fun t _ _ => (match t with | .string T => 1118577 - T.size | _ => 0))
  case atStart => exact ⟨s, 1, rfl, rfl, by omega, by omega, by omega, rfl⟩
  case round =>
    obtain ⟨T, k, rfl, rfl, hk1, hT, hTs, rfl⟩ := hrel
    by_cases hkn : k < n
    · by_cases h7 : (T.size : Int) < 70000
      · by_cases h0 : T.size = 0
        · have hse : T = ⟨#[]⟩ := by
            apply ByteArray.ext
            exact Array.eq_empty_of_size_eq_zero h0
          subst hse
          clear hTs h0 h7 hT
          go_wp2_with fail
          go_ret
          exact ⟨⟨_, rfl, by decide⟩, hbel.out⟩
        · obtain ⟨hs1, hkT⟩ : 1 ≤ s.size ∧ k ≤ (T.size : Int) := hTs.resolve_left h0
          have hne : T.toList.isEmpty = false := by
            have h1 : T.toList = T.data.toList := by simp [ByteArray.toList_eq]
            have h2 : T.data.toList.length = T.size := by simp
            rw [h1]
            cases hd : T.data.toList with
            | nil => rw [hd] at h2; simp at h2; omega
            | cons x r => rfl
          have hadd : ¬ T.size + s.size > 9223372036854775807 := by omega
          have hsz : (T ++ s).size = T.size + s.size := ByteArray.size_append
          clear hTs h0
          go_wp2_with fail
          go_roundw
          case rel => exact ⟨T ++ s, k + 1, rfl, rfl, by omega, by omega, .inr ⟨hs1, by omega⟩, trivial⟩
          case measure => simp only []; omega
      · clear hTs
        go_wp2_with fail
        go_ret
        exact ⟨⟨T, rfl, hT⟩, hbel.out⟩
    · clear hTs
      go_wp2_with fail
      go_ret
      exact ⟨⟨T, rfl, hT⟩, hbel.out⟩
end Go.Proofs.YtmhbaaemihljjaaDoor
