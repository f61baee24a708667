/- slices.Delete of the last entries. -/
import Derived.Test.YtlfbnhdcgldopaaA4
import Derived.Shelf.RegionOpenPlain
import Derived.Deep.RegionLaw
import Derived.Lib.SliceRun
import Derived.Laws.IdiomCopy
namespace Go.Proofs.Ytlfbnhdcgldopaa
open Go.RowKit Go.Shelf

/-- The cells of m entries without bytes. -/
def zeros (m : Nat) : List Value := (Builtin.zeroCells #[.string ⟨#[]⟩, .string ⟨#[]⟩] m).toList

theorem length_zeros (m : Nat) : (zeros m).length = m * 2 := by simp [zeros, Builtin.zeroCells]

theorem zeros_one (m : Nat) : ∀ u ∈ zeros m, u.oneCell' = true := by
  intro u hu
  simp only [zeros, Builtin.zeroCells, Array.toList_map, List.mem_map] at hu
  obtain ⟨i, _, rfl⟩ := hu
  have h2 : i % 2 = 0 ∨ i % 2 = 1 := by omega
  rcases h2 with h | h <;> simp [h, Value.oneCell']

/-- clear(s[k:n]) on a row of entries. -/
theorem run_clear_row (w : World) (g k m c ty : Nat) (cur : Array Value) (hg : w.heap[g]? = some (.cells cur 64 (0, 0))) (hm : 0 < m) (hfit : (k + m) * 2 ≤ cur.size) :
    (Builtin.clear_ #[60] ty #[.slice (some ⟨g, k * 2, none⟩) m c]).run Try.prog w =
      .ok (.tuple #[]) (w.setRow g (cur.toList.take (k * 2) ++ zeros m ++ cur.toList.drop (k * 2 + m * 2)).toArray) := by
  have hl := length_zeros m
  have hst := run_storeCells_at Try.prog g (k * 2) 64 (zeros m) 0 cur w hg (by rw [hl]; omega) (zeros_one m)
  rw [hl] at hst
  obtain ⟨m, rfl⟩ : ∃ m', m = m' + 1 := ⟨m - 1, by omega⟩
  simp only [Nat.add_zero, zeros] at hst
  simp [Builtin.clear_, run_underlying Try.underlying60, Try.zeroValue64, Value.cells, hst, zeros]

set_option maxRecDepth 100000 in
set_option maxHeartbeats 1000000 in
theorem delete_none (w : World) (s : Value) (base : Option Addr) (n cap : Nat) (hs : s = .slice base n cap) (hn : n ≤ cap) (hb : base = none → n = 0 ∧ cap = 0) (hc : cap ≤ 9223372036854775807) :
    Calls Try.prog 43 #[s, .int .i64 (n : Int), .int .i64 (n : Int)] w fun e w' => e = .returned s ∧ w' = w := by
  subst hs
  cases base with
  | none =>
    obtain ⟨rfl, rfl⟩ := hb rfl
    go_enter Try.func43, Try.ntmps43
    go_wp2
    all_goals (go_ret; exact ⟨rfl, rfl⟩)
  | some a =>
    go_enter Try.func43, Try.ntmps43
    go_wp2
    all_goals (go_ret; exact ⟨rfl, rfl⟩)

set_option maxRecDepth 100000 in
set_option maxHeartbeats 4000000 in
theorem delete_some (w : World) (g n k cap : Nat) (cur : Array Value) (hg : w.heap[g]? = some (.cells cur 64 (0, 0))) (hk : k < n) (hn : n ≤ cap) (hcs : cur.size = cap * 2) (_hc : cap ≤ 9223372036854775807) :
    Calls Try.prog 43 #[.slice (some ⟨g, 0, none⟩) n cap, .int .i64 (k : Int), .int .i64 (n : Int)] w fun e w' => e = .returned (.slice (some ⟨g, 0, none⟩) k cap) ∧
      w' = w.drew.setRow g (cur.toList.take (k * 2) ++ zeros (n - k) ++ cur.toList.drop (k * 2 + (n - k) * 2)).toArray := by
  obtain ⟨i0, hi0, hz0, hz1, hz2⟩ := info_parts info64
  have hcl : ∀ ty c, (Builtin.clear_ #[60] ty #[.slice (some ⟨g, k * 2, none⟩) (n - k) c]).run Try.prog w.drew = _ := fun ty c => run_clear_row w.drew g k (n - k) c ty cur hg (by omega) (by omega)
  obtain ⟨A, hA⟩ : ∃ A : Addr, (if cap = n then some (⟨g, 0, none⟩ : Addr) else some ⟨g, n * 2, none⟩) = some A := by
    by_cases h : cap = n
    · exact ⟨_, by simp [h]; rfl⟩
    · exact ⟨_, by simp [h]; rfl⟩
  have hkn : ¬ ((k : Int) = (n : Int)) := by omega
  have hkc : k ≤ cap := by omega
  have hck : ¬ (cap = k) := by omega
  go_enter Try.func43, Try.ntmps43
  go_wp2_with fail
  go_region_law (refine step_append_room rfl (.tmp 22) (.tmp 25) 60 rfl 64 i0 2 Try.underlying60 hi0 hz1 g 0 k cap (by simp [Act.eval, Act.put]) A 0 (cap - n) [] (by simp [Act.eval, Act.put]) rfl (by simp) (by simp) (by omega) (by simp) ?_; rw [World.setCells])
  go_wp2
  go_ret
  exact ⟨rfl, by rw [List.append_assoc]⟩

theorem take_row (cur : Array Value) (es : List E) (k n : Nat) (z : List Value) (hk : k ≤ es.length) (hn : n = es.length) (htk : cur.toList.take (n * 2) = cellsOf es) :
    (cur.toList.take (k * 2) ++ z).take (k * 2) = cellsOf (es.take k) := by
  have h1 : (cur.toList.take (k * 2)).length = k * 2 := by
    have := congrArg List.length htk
    rw [length_cellsOf, List.length_take] at this
    rw [List.length_take]
    omega
  rw [List.take_append_of_le_length (by omega), List.take_take, Nat.min_self, cellsOf_take, ← htk, List.take_take, Nat.min_eq_left (by omega)]

theorem delete_any (w : World) (v : Value) (es : List E) (k : Nat) (hk : k ≤ es.length) (hown : w.ownsRow 0 64 2 v es.length (cellsOf es)) :
    Calls Try.prog 43 #[v, .int .i64 (k : Int), .int .i64 (es.length : Int)] w fun e w' => ∃ v', e = .returned v' ∧ w'.ownsRow 0 64 2 v' k (cellsOf (es.take k)) ∧ v'.ownBlock = v.ownBlock ∧ w.grownBy w' v.ownBlock := by
  by_cases he : k = es.length
  · subst he
    have hh : ∃ base n cap, v = .slice base n cap ∧ n = es.length ∧ n ≤ cap ∧ (base = none → n = 0 ∧ cap = 0) ∧ cap ≤ 9223372036854775807 := by
      rcases hown.2 with ⟨rfl, hn⟩ | ⟨g, cap, cur, rfl, _, _, hc, hm, _⟩
      · exact ⟨none, 0, 0, rfl, hn.symm, Nat.le_refl _, fun _ => ⟨rfl, rfl⟩, by omega⟩
      · exact ⟨_, _, cap, rfl, rfl, hc, (fun h => by cases h), by unfold maxLen at hm; omega⟩
    obtain ⟨base, n, cap, rfl, rfl, hc, hb, hm⟩ := hh
    refine (delete_none w _ base _ cap rfl hc hb hm).mono ?_
    rintro e w' ⟨rfl, rfl⟩
    refine ⟨_, rfl, ?_, rfl, ⟨rfl, rfl, rfl, Nat.le_refl _, fun _ _ _ => rfl⟩⟩
    rw [List.take_length]
    exact hown
  · rcases hown.2 with ⟨rfl, hn⟩ | ⟨g, cap, cur, rfl, hb, hg, hc, hm, hs, htk⟩
    · omega
    refine (delete_some w g es.length k cap cur hg (by omega) hc hs (by unfold maxLen at hm; omega)).mono ?_
    rintro e w' ⟨rfl, rfl⟩
    refine ⟨_, rfl, ⟨?_, .inr ⟨g, cap, _, rfl, hb, setRow_heap _ _ cur _ 64 (0, 0) hg, by omega, hm, ?_, ?_⟩⟩, rfl, ⟨rfl, rfl, rfl, by simp, fun j _ hj => ?_⟩⟩
    · rw [length_cellsOf, List.length_take]; omega
    · have := length_zeros (es.length - k)
      simp [this]
      omega
    · rw [List.append_assoc]
      exact take_row cur es k es.length _ (by omega) rfl htk
    · rw [setRow_other _ _ _ _ (fun e => hj (by rw [e]; rfl))]
      rfl

end Go.Proofs.Ytlfbnhdcgldopaa
