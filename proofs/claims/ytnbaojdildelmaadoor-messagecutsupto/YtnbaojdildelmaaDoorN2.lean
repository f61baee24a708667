/- number, refusal, Data, End, Whole. -/
import Derived.Test.YtnbaojdildelmaaDoorN1
import Derived.Test.YtnbaojdildelmaaDoorV1
import Derived.Test.YtnbaojdildelmaaDoorSh2
namespace Go.Proofs.YtnbaojdildelmaaDoor
open Go.RowKit
set_option linter.unusedVariables false
set_option linter.unusedSimpArgs false
/-- the two errors that start-up lays -/
def Er (w : World) : Prop := (∃ te pe, w.cell? ⟨3, 0, none⟩ = some (.iface te pe)) ∧ ∃ te pe, w.cell? ⟨4, 0, none⟩ = some (.iface te pe)
theorem cell_lt {w : World} {a : Nat} {v : Value} (h : w.cell? ⟨a, 0, none⟩ = some v) : a < w.heap.size := by
  unfold World.cell? at h
  cases hb : w.heap[a]? with
  | none => rw [hb] at h; simp at h
  | some o => exact heap_lt hb
theorem Er.below {w w' : World} (h : Er w) (hb : Below w.heap.size w w') : Er w' := by
  obtain ⟨⟨t1, p1, h1⟩, ⟨t2, p2, h2⟩⟩ := h
  exact ⟨⟨t1, p1, (hb.cell (cell_lt h1)).trans h1⟩, ⟨t2, p2, (hb.cell (cell_lt h2)).trans h2⟩⟩
/-- the number that a text tells -/
def nbO (s : ByteArray) : Option Nat := match Lib.parseUintB 64 s.data.toList with
  | .ok u => if s.size ≤ 10 ∧ u ≤ 2147483647 then some u else none
  | _ => none
def nbV (o : Option Nat) : Value := .tuple #[.int .i64 ((o.getD 0 : Nat) : Int), .bool o.isSome]
theorem bytesW_below (w : World) (s : ByteArray) : Below w.heap.size w (Lib.bytesWorld w 5 s) :=
  ⟨rfl, rfl, rfl, by rw [Lib.bytesWorld_size]; omega, fun k hk => Lib.bytesWorld_at_old w 5 s k hk⟩
set_option maxHeartbeats 4000000 in
set_option maxRecDepth 100000 in
theorem number_any (s : ByteArray) (w : World) (hs : s.size ≤ 140737488355328) (he : Er w) : Calls Tryd.prog 30 #[.string s] w fun e w' => e = .returned (nbV (nbO s)) ∧ Below w.heap.size w w' := by
  obtain ⟨⟨t1, p1, h1⟩, ⟨t2, p2, h2⟩⟩ := he
  cases hp : Lib.parseUintB 64 s.data.toList with
  | ok u =>
    have hc : Hid (Calls Tryd.prog 41 #[.string s, .int .i64 10, .int .i64 64] w fun e w' => e = .returned (.tuple #[.int .u64 u, .nilIface]) ∧ Below w.heap.size w w') := (Tryd.strconv_ParseUint_10_at64_ok s (by omega) u hp w).mono fun e w' h => ⟨h.1, by
      rcases h.2 with e | e
      · rw [e]; exact Below.refl _ _
      · rw [e]; exact bytesW_below w s⟩
    have HN : Hid (nbO s = if s.size ≤ 10 ∧ u ≤ 2147483647 then some u else none) := by show _ = _; unfold nbO; rw [hp]
    clear hp h1 h2
    by_cases ha : s.size ≤ 10
    · by_cases hb : u ≤ 2147483647
      · rw [if_pos ⟨ha, hb⟩] at HN
        have ha' : ¬ (s.size : Int) > 10 := by omega
        have hb' : ¬ (u : Int) > 2147483647 := by omega
        have hw : IntKind.i64.wrap (u : Int) = (u : Int) := by rw [IntKind.wrap_i64]; omega
        rw [HN.out]
        clear HN
        go_enter Tryd.func30, Tryd.ntmps30
        go_wp2_with fail
        go_at_call 41
        refine Calls.mono hc.out ?_
        rintro e w1 ⟨rfl, bX⟩
        go_wp2_with fail
        go_ret2
        exact ⟨by first | rfl | simp [nbV], bX⟩
      · rw [if_neg (by omega)] at HN
        have ha' : ¬ (s.size : Int) > 10 := by omega
        have hb' : (u : Int) > 2147483647 := by omega
        rw [HN.out]
        clear HN
        go_enter Tryd.func30, Tryd.ntmps30
        go_wp2_with fail
        go_at_call 41
        refine Calls.mono hc.out ?_
        rintro e w1 ⟨rfl, bX⟩
        go_wp2_with fail
        go_ret2
        exact ⟨by first | rfl | simp [nbV], bX⟩
    · rw [if_neg (by omega)] at HN
      have ha' : (s.size : Int) > 10 := by omega
      rw [HN.out]
      clear HN
      go_enter Tryd.func30, Tryd.ntmps30
      go_wp2_with fail
      go_at_call 41
      refine Calls.mono hc.out ?_
      rintro e w1 ⟨rfl, bX⟩
      go_wp2_with fail
      go_ret2
      exact ⟨by first | rfl | simp [nbV], bX⟩
  | «syntax» =>
    have hc : Hid (Calls Tryd.prog 41 #[.string s, .int .i64 10, .int .i64 64] w fun e w' => ∃ N, e = .returned (.tuple #[.int .u64 0, .iface 97 (.pointer (some ⟨N, 0, none⟩))]) ∧ Below w.heap.size w w') := (Tryd.strconv_ParseUint_10_at64_syntax s (by omega) hp _ w h1 (.inr ⟨t1, p1, rfl⟩)).mono fun e w' ⟨N, k1, _, _, k2⟩ => ⟨N, k1, k2⟩
    have HN : Hid (nbO s = none) := by show _ = _; unfold nbO; rw [hp]
    rw [HN.out]
    clear hp h1 h2 HN
    go_enter Tryd.func30, Tryd.ntmps30
    go_wp2_with fail
    go_at_call 41
    refine Calls.mono hc.out ?_
    rintro e w1 ⟨N, rfl, bX⟩
    go_wp2_with fail
    go_ret2
    exact ⟨by first | rfl | simp [nbV], bX⟩
  | range =>
    have hc : Hid (Calls Tryd.prog 41 #[.string s, .int .i64 10, .int .i64 64] w fun e w' => ∃ N, e = .returned (.tuple #[.int .u64 18446744073709551615, .iface 97 (.pointer (some ⟨N, 0, none⟩))]) ∧ Below w.heap.size w w') := (Tryd.strconv_ParseUint_10_at64_range s (by omega) hp _ w h2 (.inr ⟨t2, p2, rfl⟩)).mono fun e w' ⟨N, k1, _, _, k2⟩ => ⟨N, k1, k2⟩
    have HN : Hid (nbO s = none) := by show _ = _; unfold nbO; rw [hp]
    rw [HN.out]
    clear hp h1 h2 HN
    go_enter Tryd.func30, Tryd.ntmps30
    go_wp2_with fail
    go_at_call 41
    refine Calls.mono hc.out ?_
    rintro e w1 ⟨N, rfl, bX⟩
    go_wp2_with fail
    go_ret2
    exact ⟨by first | rfl | simp [nbV], bX⟩
end Go.Proofs.YtnbaojdildelmaaDoor
