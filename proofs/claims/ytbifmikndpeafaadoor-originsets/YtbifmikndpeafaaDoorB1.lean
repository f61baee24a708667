/- What start-up lays; Cut, HasPrefix, Itoa, portOf. -/
import Derived.Test.YtbifmikndpeafaaDoorSh
import Derived.Test.YtbifmikndpeafaaDoorA4
import Derived.Test.YtbifmikndpeafaaDoorA2
namespace Go.Proofs.YtbifmikndpeafaaDoor
open Go.RowKit
set_option linter.unusedVariables false
set_option linter.unusedSimpArgs false
/-- what the library's variables hold -/
structure Env (w : World) : Prop where
  syn : ∃ te pe, w.cell? ⟨2, 0, none⟩ = some (.iface te pe)
  rng : ∃ te pe, w.cell? ⟨3, 0, none⟩ = some (.iface te pe)
  tab : Lib.TabIs Tryd.prog w "internal/strconv.uint64pow10" .u64 Lib.pow10Tab
  mx : ∃ m, w.cell? ⟨0, 0, none⟩ = some (.int .i64 m)
theorem gTab : Tryd.prog.globalNamed "internal/strconv.uint64pow10" = some 1 := by kernel_rfl
theorem cell_lt {w : World} {a : Nat} {v : Value} (h : w.cell? ⟨a, 0, none⟩ = some v) : a < w.heap.size := by
  unfold World.cell? at h
  cases hb : w.heap[a]? with
  | none => rw [hb] at h; simp at h
  | some o => exact heap_lt hb
theorem tab_below {w w' : World} (h : Lib.TabIs Tryd.prog w "internal/strconv.uint64pow10" .u64 Lib.pow10Tab) (hb : Below w.heap.size w w') : Lib.TabIs Tryd.prog w' "internal/strconv.uint64pow10" .u64 Lib.pow10Tab := by
  unfold Lib.TabIs World.var? at h ⊢
  rw [gTab, Option.bind_some] at h ⊢
  cases hg : w.heap[1]? with
  | none => rw [hg] at h; cases h
  | some o =>
    rw [(hb.block 1 (heap_lt hg)), hg]
    rw [hg] at h
    exact h
theorem Env.below {w w' : World} (h : Env w) (hb : Below w.heap.size w w') : Env w' := by
  obtain ⟨⟨t1, p1, h1⟩, ⟨t2, p2, h2⟩, h3, ⟨m, h4⟩⟩ := h
  exact ⟨⟨t1, p1, (hb.cell (cell_lt h1)).trans h1⟩, ⟨t2, p2, (hb.cell (cell_lt h2)).trans h2⟩, tab_below h3 hb, ⟨m, (hb.cell (cell_lt h4)).trans h4⟩⟩
theorem grow_below (w : World) (os : Array Obj) : Below w.heap.size w (Go.Sort.grow w os) :=
  ⟨rfl, rfl, rfl, by simp [Go.Sort.grow], fun k hk => by simp [Go.Sort.grow, Array.getElem?_append, hk]⟩
theorem bel_drewN (w : World) (k : Nat) : Below w.heap.size w (w.drewN k) := below_drewN (Below.refl _ w) k
def decS (u : Nat) : ByteArray := bt (Lib.decDigits u)
theorem itoa_any (u : Nat) (h1 : u ≤ 9223372036854775807) (w : World) (ht : Env w) : Calls Tryd.prog 24 #[.int .i64 (u : Int)] w fun e w' => e = .returned (.string (decS u)) ∧ Below w.heap.size w w' := by
  refine (Tryd.strconv_Itoa (u : Int) (by omega) (by omega) w ht.tab).mono ?_
  rintro e w' ⟨rfl, k, os, rfl⟩
  exact ⟨by rw [Lib.itoa_nonneg]; rfl, (below_drewN (Below.refl _ w) k).trans (show Below w.heap.size (w.drewN k) _ from grow_below (w.drewN k) os)⟩
/-- cut at the first colon -/
def cuA (s : ByteArray) : ByteArray := hoS s
def cuB (s : ByteArray) : ByteArray := if 0 ≤ Lib.indexByte s.data.toList 58 then s.extract ((Lib.indexByte s.data.toList 58).toNat + 1) s.size else ⟨#[]⟩
def cuT (s : ByteArray) : Bool := decide (0 ≤ Lib.indexByte s.data.toList 58)
def cuV (s : ByteArray) : Value := .tuple #[.string (cuA s), .string (cuB s), .bool (cuT s)]
set_option maxHeartbeats 2000000 in
set_option maxRecDepth 100000 in
theorem slCut_one (s : ByteArray) (w : World) (hs : s.size ≤ 140737488355328) : Calls Tryd.prog 36 #[.string s, .string ⟨#[58]⟩] w fun e w' => e = .returned (cuV s) ∧ Below w.heap.size w w' := by
  have hC : Hid (∀ W, Calls Tryd.prog 43 #[.string s, .string ⟨#[58]⟩] W fun e w' => e = .returned (.int .i64 (Lib.indexByte s.data.toList 58)) ∧ w' = W) := fun W => Tryd.stringslite_Index_one s 58 W
  rcases ixB_cases s.data.toList 58 with ⟨h1, h2⟩ | ⟨i, hi, h1, h2, h3⟩
  · have hV : cuV s = .tuple #[.string s, .string ⟨#[]⟩, .bool false] := by unfold cuV cuA cuB cuT hoS; rw [h1]; rfl
    rw [hV]
    rw [h1] at hC
    clear hV h1 h2
    go_enter Tryd.func36, Tryd.ntmps36
    go_wp2_with fail
    go_at_call 43
    refine (hC.out _).mono ?_
    rintro e w1 ⟨rfl, hw⟩
    rw [hw]
    clear hw
    go_wp2_with fail
    go_ret3
    exact ⟨rfl, Below.refl _ _⟩
  · have hi' : i < s.size := by rw [Lib.size_eq]; exact hi
    have hV : cuV s = .tuple #[.string (s.extract 0 i), .string (s.extract (i + 1) s.size), .bool true] := by
      unfold cuV cuA cuB cuT hoS
      rw [h1, if_pos (by omega), if_pos (by omega), decide_eq_true (by omega)]
      rfl
    rw [hV]
    rw [h1] at hC
    have c1 : (0 : Int) ≤ (i : Int) := by omega
    have c2 : (i : Int) ≤ (s.size : Int) := by omega
    have c3 : (0 : Int) ≤ (i : Int) + 1 := by omega
    have c4 : (i : Int) + 1 ≤ (s.size : Int) := by omega
    have hb : Hid (Below w.heap.size w w.drew) := (Below.refl _ _).drew
    clear hV h1 h2 h3 hi
    go_enter Tryd.func36, Tryd.ntmps36
    go_wp2_with fail
    go_at_call 43
    refine (hC.out _).mono ?_
    rintro e w1 ⟨rfl, hw⟩
    rw [hw]
    clear hw
    go_wp2_with fail
    first | go_region | skip
    go_wp2_with fail
    go_ret3
    first | exact ⟨rfl, hb.out⟩ | exact ⟨by simp, hb.out⟩
set_option maxHeartbeats 1000000 in
theorem cut_one (s : ByteArray) (w : World) (hs : s.size ≤ 140737488355328) : Calls Tryd.prog 25 #[.string s, .string ⟨#[58]⟩] w fun e w' => e = .returned (cuV s) ∧ Below w.heap.size w w' := by
  have hC : Hid (Calls Tryd.prog 36 #[.string s, .string ⟨#[58]⟩] w fun e w' => e = .returned (cuV s) ∧ Below w.heap.size w w') := slCut_one s w hs
  unfold cuV at hC ⊢
  go_enter Tryd.func25, Tryd.ntmps25
  go_wp2_with fail
  go_at_call 36
  refine hC.out.mono ?_
  rintro e w1 ⟨rfl, hb⟩
  go_wp2_with fail
  go_ret3
  exact ⟨rfl, hb⟩
/-- cut at the first "://" -/
def c3S : ByteArray := ⟨#[58, 47, 47]⟩
def c3A (s : ByteArray) : ByteArray := bt (Lib.cut s.data.toList c3S.data.toList).1
def c3B (s : ByteArray) : ByteArray := bt (Lib.cut s.data.toList c3S.data.toList).2.1
def c3T (s : ByteArray) : Bool := (Lib.cut s.data.toList c3S.data.toList).2.2
theorem cut_three (s : ByteArray) (w : World) (hw : Env w) (hs : s.size < 4294967281) : Calls Tryd.prog 25 #[.string s, .string ⟨#[58, 47, 47]⟩] w fun e w' => e = .returned (.tuple #[.string (c3A s), .string (c3B s), .bool (c3T s)]) ∧ Below w.heap.size w w' := by
  obtain ⟨m, hm⟩ := hw.mx
  refine (Tryd.strings_Cut s c3S m w hs hm).mono ?_
  rintro e w' ⟨rfl, n, rfl⟩
  exact ⟨rfl, bel_drewN w n⟩
end Go.Proofs.YtbifmikndpeafaaDoor
