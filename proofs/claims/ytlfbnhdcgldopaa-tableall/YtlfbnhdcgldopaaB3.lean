/- The iterator that gives every entry with its index. -/
import Derived.Test.YtlfbnhdcgldopaaB2
import Derived.Shelf.Abstract
import Derived.Shelf.RegionOpen
import Derived.WalkKit
import Derived.OwnWalkIn
import Derived.TacticsInMore
import Derived.LoopNIn
import Derived.LoopIn
namespace Go.Proofs.Ytlfbnhdcgldopaa
open Go.RowKit Go.Shelf

attribute [local go_sem] Oper.semAt_some

def it (l : List E) (k : Nat) : Item := ⟨(min k 9999 + 1, l[k]?.getD (⟨#[]⟩, ⟨#[]⟩)), by omega, by omega⟩
def upto (l : List E) (k : Nat) : List Item := (List.range k).map (it l)
theorem upto_succ (l : List E) (k : Nat) : upto l (k + 1) = upto l k ++ [it l k] := by simp [upto, List.range_succ]
theorem length_upto (l : List E) (k : Nat) : (upto l k).length = k := by simp [upto]
theorem it_index (l : List E) (k : Nat) (h : k ≤ 9999) : (it l k).1.1 = k + 1 := by simp only [it]; omega
theorem it_entry (l : List E) (k : Nat) (e : E) (h : l[k]? = some e) : (it l k).1.2 = e := by simp [it, h]

def Stays (J : List Item → World → Prop) : Prop := ∀ pre A A', J pre A → Below A.heap.size A A' → J pre A'

theorem abide_alloc {J : List Item → World → Prop} (h : Stays J) {pre : List Item} {W : World} (hJ : J pre W) (o : Obj) : J pre (W.alloc o) :=
  h pre W _ hJ ((Below.refl _ W).alloc (Nat.le_refl _) _)

set_option maxRecDepth 100000 in
set_option maxHeartbeats 1000000 in
theorem entries_in (n : Nat) (hn : 1 ≤ n) (l b mx n₀ : Nat) (es : List E) (v : Value) (J Jx : List Item → World → Prop) (W w0 : World) (hT : Tab w0 b mx es v) (hn0 : n₀ = w0.heap.size) (hW : Below n₀ w0 W) (hJ : Stays J)
    (hY : ∀ pre x W1, J pre W1 → pre.length < 61 + es.length → YieldAt Fence.wide (n - 1) Try.prog l (encI x) W1 fun e W' =>
      (e = .returned (.bool true) ∧ J (pre ++ [x]) W' ∧ Below n₀ W1 W') ∨ (e = .returned (.bool false) ∧ Jx (pre ++ [x]) W')) (h0 : J [] W) :
    CallsIn Fence.wide n Try.prog 31 #[.pointer (some ⟨b, 0, none⟩), .func (.yield l) #[] #[]] W fun e W' => (∃ v, e = .returned v) ∧
      ((∃ xs, xs = upto (fixedL ++ es) (61 + es.length) ∧ J xs W') ∨ (∃ pre, (∃ k, k ≤ 61 + es.length ∧ pre = upto (fixedL ++ es) k) ∧ Jx pre W')) := by
  have hfl : fixedL.length = 61 := rfl
  have hlen := hT.len
  refine callsIn_of_wp Try.func31 rfl trivial ?_ rfl
  simp only [Try.ntmps31, List.size_toArray, List.length_cons, List.length_nil, Nat.reduceAdd, Nat.reduceSub, Array.replicate_succ, Array.replicate_zero, List.push_toArray, List.append_toArray, List.nil_append, List.cons_append]
  gi_wp2_with (refine ⟨trivial, ?_⟩; gi_at_call 47; refine (callsIn_wide.2 (fixed_any _)).mono ?_; rintro e w1 ⟨rfl, hb1⟩)
  have hB1 : Below n₀ w0 w1 := hW.trans (hb1.mono (by rw [hn0]; exact hW.size))
  have hJ1 : J [] w1 := hJ _ _ _ h0 hb1
  gi_loopw [9] (fun i wr => ∃ k : Nat, k ≤ 61 ∧ i = .int .i64 (k : Int) ∧ J (upto (fixedL ++ es) k) wr ∧ Below n₀ w0 wr) (fun i _ => 61 - (intOf i).toNat)
  case atStart => exact ⟨0, by omega, rfl, hJ1, hB1⟩
  case round =>
    obtain ⟨k, hk, rfl, hJs, hB⟩ := hrel
    by_cases hlt : k < 61
    · obtain ⟨x, hx⟩ : ∃ x : Item, x = it (fixedL ++ es) k := ⟨_, rfl⟩
      have hx1 : (1 : Int) + (k : Int) = (x.1.1 : Int) := by rw [hx, it_index _ _ (by omega)]; omega
      have hx2 : fixedL[k]? = some x.1.2 := by
        rw [hx, it_entry _ _ fixedL[k] (by rw [List.getElem?_append_left (by omega)]; exact List.getElem?_eq_getElem (by omega))]
        exact List.getElem?_eq_getElem (by omega)
      have hidx := run_index_fixed k x.1.2 hx2 hlt
      obtain ⟨fn, tmps, assign, body, hy, hR⟩ := hY _ x (wr.alloc (.cells #[.string x.1.2.1, .string x.1.2.2] 64)) (abide_alloc hJ hJs _) (by rw [length_upto]; omega)
      have hx3 := x.2.2
      dsimp only [encI] at hy
      replace hx : Hid (x = it (fixedL ++ es) k) := hx
      clear hx2
      gi_wp2
      refine hR.mono ?_
      rintro e W3 (⟨rfl, hJ3, hk3⟩ | ⟨rfl, hJx3⟩)
      · gi_wp2
        go_roundw
        case rel => exact ⟨k + 1, by omega, by simp, by rw [upto_succ, ← hx.out]; exact hJ3, (hB.alloc (by rw [hn0]; exact hB.size) _).trans hk3⟩
        case measure => simp [intOf]; omega
      · gi_wp2
        refine bodyPost_ret (results_none rfl _ _ _) rfl ?_
        exact ⟨⟨_, rfl⟩, .inr ⟨_, ⟨k + 1, by omega, rfl⟩, by rw [upto_succ, ← hx.out]; exact hJx3⟩⟩
    · obtain rfl : k = 61 := by omega
      rw [show ((61 : Nat) : Int) = 61 from rfl]
      have hTr : Tab wr b mx es v := hT.below (by rw [← hn0]; exact hB)
      obtain ⟨base, cap, rfl⟩ := hTr.slice
      obtain ⟨_, _, hc2, _⟩ := hTr.cells
      have hB0 := hB
      gi_wp2
      gi_loopw [25] (fun i wr => ∃ k : Nat, k ≤ es.length ∧ i = .int .i64 (k : Int) ∧ J (upto (fixedL ++ es) (61 + k)) wr ∧ Below n₀ w0 wr) (fun i _ => es.length - (intOf i).toNat)
      case atStart => exact ⟨0, by omega, rfl, hJs, hB⟩
      case round =>
        obtain ⟨k, hk, rfl, hJs, hB⟩ := hrel
        by_cases hlt : k < es.length
        · obtain ⟨x, hx⟩ : ∃ x : Item, x = it (fixedL ++ es) (61 + k) := ⟨_, rfl⟩
          have hx1 : (62 : Int) + (k : Int) = (x.1.1 : Int) := by rw [hx, it_index _ _ (by omega)]; omega
          have hx2 : es[k] = x.1.2 := by
            rw [hx, it_entry _ _ es[k] (by rw [List.getElem?_append_right (by omega), hfl, Nat.add_sub_cancel_left]; exact List.getElem?_eq_getElem hlt)]
          have hTr : Tab wr b mx es (.slice base es.length cap) := hT.below (by rw [← hn0]; exact hB)
          have hown := hTr.2.2.2
          rcases hTr.2.2.2.2 with ⟨_, hn⟩ | ⟨g, cap', cur, h1, _, hg, _⟩
          · omega
          cases h1
          have hgl : g < wr.heap.size := (Array.getElem?_eq_some_iff.1 hg).1
          have hce := hown.cells (g := g) rfl
          obtain ⟨hg1, hg2⟩ := cellsOf_get es k hlt
          have hd1 := hce _ _ hg1
          have hd2 := hce _ _ hg2
          rw [Addr.add_lit, Nat.zero_add, hx2] at hd1 hd2
          obtain ⟨fn, tmps, assign, body, hy, hR⟩ := hY _ x (wr.alloc (.cells #[.string x.1.2.1, .string x.1.2.2] 64)) (abide_alloc hJ hJs _) (by rw [length_upto]; omega)
          have hx3 := x.2.2
          dsimp only [encI] at hy
          replace hx : Hid (x = it (fixedL ++ es) (61 + k)) := hx
          clear hx2 hce hg1 hg2 hown hTr hg
          gi_wp2
          refine hR.mono ?_
          rintro e W3 (⟨rfl, hJ3, hk3⟩ | ⟨rfl, hJx3⟩)
          · gi_wp2
            go_roundw
            case rel => exact ⟨k + 1, by omega, by simp, by rw [← Nat.add_assoc, upto_succ, ← hx.out]; exact hJ3, (hB.alloc (by rw [hn0]; exact hB.size) _).trans hk3⟩
            case measure => simp [intOf]; omega
          · gi_wp2
            refine bodyPost_ret (results_none rfl _ _ _) rfl ?_
            exact ⟨⟨_, rfl⟩, .inr ⟨_, ⟨61 + k + 1, by omega, rfl⟩, by rw [upto_succ, ← hx.out]; exact hJx3⟩⟩
        · obtain rfl : k = es.length := by omega
          gi_wp2
          go_end0
          exact ⟨⟨_, rfl⟩, .inl ⟨_, rfl, hJs⟩⟩

theorem upto_take (l : List E) (k m : Nat) (h : k ≤ m) : (upto l m).take k = upto l k := by
  unfold upto
  rw [← List.map_take, List.take_range, Nat.min_eq_left h]

theorem entries_gives (b mx : Nat) (es : List E) (v : Value) (w W0 : World) (hT : Tab w b mx es v) (_hw : Below w.heap.size w W0) : ∀ W, Below w.heap.size w W → ∀ (l : Nat) (J Jx : List Item → World → Prop), Stays J →
    (∀ pre x W1, J pre W1 → pre.length < 61 + es.length → YieldAt Fence.wide 1 Try.prog l (encI x) W1 fun e W' =>
      (e = .returned (.bool true) ∧ J (pre ++ [x]) W' ∧ Below w.heap.size W1 W') ∨ (e = .returned (.bool false) ∧ Jx (pre ++ [x]) W')) → J [] W →
    CallsIn Fence.wide 2 Try.prog 31 #[.pointer (some ⟨b, 0, none⟩), .func (.yield l) #[] #[]] W fun e W' => (∃ v, e = .returned v) ∧ (J (upto (fixedL ++ es) (61 + es.length)) W' ∨ ∃ k, k ≤ 61 + es.length ∧ Jx ((upto (fixedL ++ es) (61 + es.length)).take k) W') := by
  intro W hW l J Jx hJ hY h0
  refine (entries_in 2 (by omega) l b mx w.heap.size es v J Jx W w hT rfl hW hJ hY h0).mono ?_
  rintro e W' ⟨hv, ⟨xs, rfl, hj⟩ | ⟨pre, ⟨k, hk, rfl⟩, hj⟩⟩
  · exact ⟨hv, .inl hj⟩
  · exact ⟨hv, .inr ⟨k, hk, by rw [upto_take _ _ _ hk]; exact hj⟩⟩

end Go.Proofs.Ytlfbnhdcgldopaa
