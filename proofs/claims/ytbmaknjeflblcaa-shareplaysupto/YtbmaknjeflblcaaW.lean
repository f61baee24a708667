/- The bytes that wait: a slice somewhere in a row, appended to and cut ahead. -/
import Derived.Test.YtbmaknjeflblcaaK1
import Derived.Deep.AppendSrc
import Derived.Laws.IdiomStrings
import Derived.Laws.BytesArg
import Derived.Lib.Strings
namespace Go.Proofs.Ytbmaknjeflblcaa
open Go.RowKit
set_option linter.unusedVariables false
set_option linter.unusedSimpArgs false

theorem info5 : (Try.prog.info? 5).map (fun i => (i.zero, i.size, i.bytes)) = some (some (.int .u8 0), 1, 1) := by kernel_rfl
def bs (l : List UInt8) : List Value := l.map fun b => Value.int .u8 (b.toNat : Int)
theorem bs_append (a b : List UInt8) : bs (a ++ b) = bs a ++ bs b := by simp [bs]
theorem bs_length (a : List UInt8) : (bs a).length = a.length := by simp [bs]
theorem bs_one (a : List UInt8) : ∀ u ∈ bs a, u.oneCell' = true := by
  intro u hu
  obtain ⟨b, _, rfl⟩ := List.mem_map.1 hu
  rfl
theorem bs_str (s : ByteArray) : Lib.strCells s = bs s.data.toList := by simp [Lib.strCells, bs]
/-- The slice holds these bytes; behind them, up to its capacity, there is room. -/
def WRow (w : World) (v : Value) (l : List UInt8) : Prop :=
  (v = .slice none 0 0 ∧ l = []) ∨ ∃ g off cap cur, v = .slice (some ⟨g, off, none⟩) l.length cap ∧ w.heap[g]? = some (.cells cur 5 (0, 0)) ∧ l.length ≤ cap ∧ off + cap ≤ cur.size ∧ (cur.toList.drop off).take l.length = bs l

theorem WRow.nil (w : World) : WRow w (.slice none 0 0) [] := .inl ⟨rfl, rfl⟩
theorem WRow.slice {w : World} {v : Value} {l : List UInt8} (h : WRow w v l) : ∃ base cap, v = .slice base l.length cap := by
  rcases h with ⟨rfl, rfl⟩ | ⟨g, off, cap, cur, rfl, _⟩
  · exact ⟨none, 0, rfl⟩
  · exact ⟨_, cap, rfl⟩
theorem WRow.lt {w : World} {v : Value} {l : List UInt8} (h : WRow w v l) : ∀ k, v.ownBlock = some k → k < w.heap.size := by
  rcases h with ⟨rfl, rfl⟩ | ⟨g, off, cap, cur, rfl, hg, _⟩
  · intro k hk; simp [Value.ownBlock] at hk
  · intro k hk
    simp [Value.ownBlock] at hk
    subst hk
    exact (Array.getElem?_eq_some_iff.1 hg).1
theorem WRow.same {w w' : World} {v : Value} {l : List UInt8} (h : WRow w v l) (hb : ∀ k, v.ownBlock = some k → w'.heap[k]? = w.heap[k]?) : WRow w' v l := by
  rcases h with h | ⟨g, off, cap, cur, rfl, hg, rest⟩
  · exact .inl h
  · exact .inr ⟨g, off, cap, cur, rfl, (hb g rfl).trans hg, rest⟩

theorem bs_cell {cur : Array Value} {off : Nat} {l : List UInt8} (h : (cur.toList.drop off).take l.length = bs l) (j : Nat) (hj : j < l.length) : cur[off + j]? = some (.int .u8 (l[j].toNat : Int)) := by
  have h1 : ((cur.toList.drop off).take l.length)[j]? = (bs l)[j]? := by rw [h]
  rw [List.getElem?_take, if_pos hj, List.getElem?_drop] at h1
  rw [← Array.getElem?_toList, h1]
  simp [bs, hj]

theorem WRow.cells {w : World} {g off n cap : Nat} {l : List UInt8} (h : WRow w (.slice (some ⟨g, off, none⟩) n cap) l) (j : Nat) (hj : j < l.length) : w.cell? ⟨g, off + j, none⟩ = some (.int .u8 (l[j].toNat : Int)) := by
  rcases h with ⟨h, _⟩ | ⟨g', off', cap', cur, e, hg, h1, h2, h3⟩
  · cases h
  · cases e
    rw [cell_of_row _ _ _ _ _ _ hg]
    exact bs_cell h3 j hj

/-- cut ahead -/
theorem WRow.drop {w : World} {base : Option Addr} {n cap : Nat} {l : List UInt8} (h : WRow w (.slice base n cap) l) (k : Nat) (hk : k ≤ l.length) :
    WRow w (sliced base k n cap 1) (l.drop k) ∧ (∀ b, (sliced base k n cap 1).ownBlock = some b → (Value.slice base n cap).ownBlock = some b) := by
  rcases h with ⟨h, hl⟩ | ⟨g, off, cap', cur, e, hg, h1, h2, h3⟩
  · cases h
    subst hl
    obtain rfl : k = 0 := by simpa using hk
    exact ⟨.inl ⟨rfl, rfl⟩, fun b hb => hb⟩
  · cases e
    unfold sliced
    by_cases hc : cap = k
    · rw [if_pos hc]
      refine ⟨.inr ⟨g, off, 0, cur, by rw [List.length_drop]; simp [hc], hg, by rw [List.length_drop]; omega, by omega, ?_⟩, fun b hb => hb⟩
      have : l.drop k = [] := List.drop_of_length_le (by omega)
      rw [this]; rfl
    · rw [if_neg hc]
      have ha : (⟨g, off, none⟩ : Addr).add (k * 1) = ⟨g, off + k, none⟩ := by rw [Nat.mul_one]; unfold Addr.add; split <;> simp_all
      refine ⟨.inr ⟨g, off + k, cap - k, cur, by rw [List.length_drop, Option.map_some, ha], hg, by rw [List.length_drop]; omega, by omega, ?_⟩, fun b hb => by rw [Option.map_some, ha] at hb; exact hb⟩
      rw [List.length_drop, ← List.drop_drop, ← List.drop_take, h3]
      simp [bs]

/-- its first k bytes as a text -/
theorem WRow.text {w : World} {base : Option Addr} {n cap : Nat} {l : List UInt8} (h : WRow w (.slice base n cap) l) (k : Nat) (hk : k ≤ l.length) :
    (convert 65 9 (sliced base 0 k cap 1)).run Try.prog w = .ok (.string ⟨(l.take k).toArray⟩) w := by
  have hlk : (l.take k).length = k := by rw [List.length_take]; omega
  rcases h with ⟨h, hl⟩ | ⟨g, off, cap', cur, e, hg, h1, h2, h3⟩
  · cases h
    subst hl
    obtain rfl : k = 0 := by simpa using hk
    exact run_convert_bytes_nil w 65 5 Try.underlying65 Try.underlying5 _ _ 9 Try.underlying9
  · cases e
    unfold sliced
    by_cases hc : cap = 0
    · obtain rfl : k = 0 := by omega
      rw [if_pos hc]
      have := run_convert_bytes_back (P := Try.prog) w 65 9 5 ⟨g, off, none⟩ (cap - 0) [] Try.underlying65 Try.underlying5 Try.underlying9 (fun j hj => absurd hj (by simp))
      simpa using this
    · rw [if_neg hc]
      have ha : (⟨g, off, none⟩ : Addr).add (0 * 1) = ⟨g, off, none⟩ := by unfold Addr.add; split <;> simp_all
      rw [Option.map_some, ha]
      have := run_convert_bytes_back (P := Try.prog) w 65 9 5 ⟨g, off, none⟩ (cap - 0) (l.take k) Try.underlying65 Try.underlying5 Try.underlying9 (fun j hj => by
        have haj : (⟨g, off, none⟩ : Addr).add j = ⟨g, off + j, none⟩ := by unfold Addr.add; split <;> simp_all
        rw [haj, cell_of_row _ _ _ _ _ _ hg, bs_cell h3 j (by omega)]
        simp)
      rw [hlk] at this
      exact this

theorem WRow.whole {w : World} {base : Option Addr} {n cap : Nat} {l : List UInt8} (h : WRow w (.slice base n cap) l) :
    (convert 65 9 (.slice base n cap)).run Try.prog w = .ok (.string ⟨l.toArray⟩) w := by
  rcases h with ⟨h, hl⟩ | ⟨g, off, cap', cur, e, hg, h1, h2, h3⟩
  · cases h
    subst hl
    exact run_convert_bytes_nil w 65 5 Try.underlying65 Try.underlying5 _ _ 9 Try.underlying9
  · cases e
    exact run_convert_bytes_back (P := Try.prog) w 65 9 5 ⟨g, off, none⟩ cap l Try.underlying65 Try.underlying5 Try.underlying9 (fun j hj => by
        have haj : (⟨g, off, none⟩ : Addr).add j = ⟨g, off + j, none⟩ := by unfold Addr.add; split <;> simp_all
        rw [haj, cell_of_row _ _ _ _ _ _ hg, bs_cell h3 j (by omega)])

/-- append of a text's bytes -/
theorem wrow_append (w : World) (v : Value) (l : List UInt8) (hR : WRow w v l) (s : ByteArray) (hlen : l.length + s.size ≤ 140737488355328) :
    ∃ b c w', (Builtin.append_ #[65, 9] 65 #[v, .string s]).run Try.prog w = .ok (.slice b (l.length + s.size) c) w' ∧ WRow w' (.slice b (l.length + s.size) c) (l ++ s.data.toList) ∧ Gr w w' v (.slice b (l.length + s.size) c) := by
  obtain ⟨i0, hi0, hz0, hz1, hz2⟩ := info_parts info5
  have hss : s.data.toList.length = s.size := by simp
  have hsl : (l ++ s.data.toList).length = l.length + s.size := by rw [List.length_append, hss]
  have hbc : byteCells s = bs s.data.toList := rfl
  have hsrc : Src Try.prog i0.size 9 (.string s) s.size (byteCells s) w := by rw [hz1]; exact Src.ofString w Try.underlying9 s
  have grow : ∀ (base : Option Addr) (cap : Nat), v = .slice base l.length cap → cap < l.length + s.size → (Builtin.firstCells i0.size l.length (.slice base l.length cap)).run Try.prog w.drew = .ok (bs l).toArray w.drew →
      ∃ b c w', (Builtin.append_ #[65, 9] 65 #[v, .string s]).run Try.prog w = .ok (.slice b (l.length + s.size) c) w' ∧ WRow w' (.slice b (l.length + s.size) c) (l ++ s.data.toList) ∧ Gr w w' v (.slice b (l.length + s.size) c) := by
    intro base cap hv hcap hold
    subst hv
    have hr := run_append_grow_src (P := Try.prog) w 65 9 65 5 i0 (.int .u8 0) Try.underlying65 hi0 hz0 base l.length cap (bs l) hold (.string s) s.size (byteCells s) hsrc hcap (by omega) (growslice_fits hcap (by rw [hz2]; omega))
    refine ⟨_, _, _, hr, .inr ⟨w.heap.size, 0, _, _, by rw [hsl], heap_alloc_new w.drew _, ?_, ?_, ?_⟩, rfl, rfl, rfl, by simp, fun k hk _ => heap_alloc_old w.drew _ hk, fun k hk => by simp [Value.ownBlock] at hk; exact .inr (by omega)⟩
    · rw [hsl]; exact grownCap_ge _ _ _ _
    · have hge := grownCap_ge w (l.length + s.size) cap 5
      simp only [Array.size_append, List.size_toArray, size_zeroCells, List.length_append, bs_length, byteCells_length]
      simp only [Value.cells, List.size_toArray, List.length_cons, List.length_nil]
      omega
    · rw [hsl, bs_append, ← hbc]
      simp only [Array.toList_append, List.toList_toArray, List.drop_zero]
      exact List.take_left' (by simp [bs_length, byteCells_length])
  rcases hR with ⟨rfl, rfl⟩ | ⟨g, off, cap, cur, rfl, hg, h1, h2, h3⟩
  · by_cases h0 : s.size = 0
    · have hs : s = ⟨#[]⟩ := by
        apply ByteArray.ext
        exact Array.eq_empty_of_size_eq_zero h0
      subst hs
      refine ⟨none, 0, w, ?_, .inl ⟨rfl, rfl⟩, Gr.refl _ _⟩
      simp [Builtin.append_, run_underlying Try.underlying65, run_underlying Try.underlying9, sizeOf, typeInfo, hi0, hz1, Builtin.lenOf, Builtin.firstCells, storeCells]
      intro h
      exact absurd rfl h
    · exact grow none 0 rfl (by simpa using Nat.pos_of_ne_zero h0) (run_firstCells_none w.drew _ _ _ _)
  · by_cases hroom : l.length + s.size ≤ cap
    · have hf := Lib.run_firstCells_string (P := Try.prog) w 1 s
      have hst := run_storeCells_at Try.prog g (off + l.length) 5 (Lib.strCells s) 0 cur w hg (by rw [Lib.strCells_length]; omega) (Lib.strCells_oneCell s)
      simp only [Nat.add_zero, Lib.strCells_length] at hst
      refine ⟨some ⟨g, off, none⟩, cap, w.setRow g (cur.toList.take (off + l.length) ++ Lib.strCells s ++ cur.toList.drop (off + l.length + s.size)).toArray, ?_, .inr ⟨g, off, cap, _, by rw [hsl], setRow_heap w g cur _ 5 _ hg, by omega, ?_, ?_⟩, rfl, rfl, rfl, by simp, fun j _ hj => setRow_other w g j _ (fun e => hj (by simp [Value.ownBlock, e])), fun j hj => .inl hj⟩
      · simp [Builtin.append_, run_underlying Try.underlying65, run_underlying Try.underlying9, sizeOf, typeInfo, hi0, hz1, Builtin.lenOf, hroom, hf, Addr.add_lit, hst]
      · simp only [List.size_toArray, List.length_append, List.length_take, List.length_drop, Array.length_toList, Lib.strCells_length]
        omega
      · have ht : cur.toList.take (off + l.length) = cur.toList.take off ++ bs l := by
          rw [List.take_add, h3]
        rw [List.toList_toArray, ht, List.append_assoc, List.append_assoc, List.drop_left' (by rw [List.length_take, Array.length_toList]; omega), hsl, bs_append, bs_str, ← List.append_assoc]
        exact List.take_left' (by simp [bs_length])
    · refine grow _ cap rfl (by omega) ?_
      exact run_firstCells_some (P := Try.prog) w.drew i0.size l.length ⟨g, off, none⟩ l.length cap (bs l) (by rw [bs_length, hz1, Nat.mul_one]) (fun j u hu => by
        have hj : j < l.length := by have := (List.getElem?_eq_some_iff.1 hu).1; rwa [bs_length] at this
        have haj : (⟨g, off, none⟩ : Addr).add j = ⟨g, off + j, none⟩ := by unfold Addr.add; split <;> simp_all
        rw [haj]
        show w.cell? _ = _
        rw [cell_of_row _ _ _ _ _ _ hg, bs_cell h3 j hj]
        simpa [bs, hj] using hu)
end Go.Proofs.Ytbmaknjeflblcaa
