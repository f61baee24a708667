/- read. -/
import Derived.Test.YtcadlpmopplkeaaDoorA9
namespace Go.Proofs.YtcadlpmopplkeaaDoor
open Go.RowKit Go.Maps
set_option linter.unusedVariables false
set_option linter.unusedSimpArgs false

/-- one more value -/
def one1 (l : List Fd) (m : Nat) (vs : List ByteArray) (s : ByteArray) : Option (List ByteArray) := (plc l m s).bind fun i => (l[i]?).map fun f => vs ++ [f.v]
def valsF (l : List Fd) (m : Nat) (acc : Option (List ByteArray)) (names : List ByteArray) : Option (List ByteArray) := names.foldl (fun a s => a.bind fun vs => one1 l m vs s) acc
/-- the values of the names, in their order -/
def vals (l : List Fd) (m : Nat) (names : List ByteArray) : Option (List ByteArray) := valsF l m (some []) names
theorem valsF_none (l : List Fd) (m : Nat) : ∀ names, valsF l m none names = none
  | [] => rfl
  | s :: r => valsF_none l m r
theorem vals_succ (l : List Fd) (m : Nat) (names : List ByteArray) (j : Nat) (hj : j < names.length) : vals l m (names.take (j + 1)) = (vals l m (names.take j)).bind fun vs => one1 l m vs names[j] := by
  unfold vals valsF
  rw [List.take_succ_eq_append_getElem hj, List.foldl_append]
  rfl
theorem vals_none {l : List Fd} {m : Nat} {names : List ByteArray} {j : Nat} (h : vals l m (names.take j) = none) : vals l m names = none := by
  have e : names = names.take j ++ names.drop j := (List.take_append_drop j names).symm
  unfold vals valsF at h ⊢
  rw [e, List.foldl_append, h]
  exact valsF_none l m _
theorem vals_len (l : List Fd) (m : Nat) (names : List ByteArray) : ∀ j vs, j ≤ names.length → vals l m (names.take j) = some vs → vs.length = j := by
  intro j
  induction j with
  | zero => intro vs _ h; simp [vals, valsF] at h; simp [h]
  | succ j ih =>
    intro vs hj h
    rw [vals_succ l m names j (by omega)] at h
    cases h1 : vals l m (names.take j) with
    | none => rw [h1] at h; cases h
    | some us =>
      rw [h1] at h
      have := ih us (by omega) h1
      simp only [Option.bind_some] at h
      unfold one1 at h
      cases h2 : plc l m names[j] with
      | none => rw [h2] at h; cases h
      | some i =>
        rw [h2] at h
        cases h3 : l[i]? with
        | none => rw [Option.bind_some, h3] at h; cases h
        | some f => rw [Option.bind_some, h3] at h; simp at h; rw [← h]; simp [this]

/-- the error that read tells -/
def rdE (l : List Fd) (names : List ByteArray) : Int :=
  if 64 < l.length then 3 else if l.any wrongB = true then 130 else if l.length < names.length then 131 else if (l.drop names.length).any nofB = true then 131
  else match vals l names.length names with | none => 131 | some _ => 0
/-- what read leaves and tells -/
def RdPost (l : List Fd) (names : List ByteArray) (w : World) (e : Ending) (w' : World) : Prop :=
  ∃ v p : SV, e = .returned (.tuple #[sv v, sv p, .int .i64 (rdE l names)]) ∧ Below w.heap.size w w' ∧
    (rdE l names = 0 → ∃ vs, vals l names.length names = some vs ∧ vs.length = names.length ∧ R ES w' (sv v) vs ∧ R EFd w' (sv p) (l.drop names.length) ∧ (∀ k, (sv v).ownBlock = some k → w.heap.size ≤ k) ∧ (∀ k, (sv p).ownBlock = some k → w.heap.size ≤ k))

theorem In.take {α : Type} {E : El α} {w : World} {B off n cap : Nat} {l : List α} (h : In E w (.slice (some ⟨B, off, none⟩) n cap) l) (k : Nat) (hk : k ≤ l.length) : In E w (.slice (some ⟨B, off, none⟩) k cap) (l.take k) := by
  rcases h with ⟨h, _⟩ | ⟨a, cap', e, h1, h2, h3⟩
  · cases h
  · injection e with e1 e2 e3
    injection e1 with e1
    subst e1
    subst e3
    refine .inr ⟨_, cap, by rw [List.length_take, Nat.min_eq_left hk], by rw [List.length_take]; omega, h2, fun j u hu => h3 j u ?_⟩
    have e : E.cs l = E.cs (l.take k) ++ E.cs (l.drop k) := by rw [← El.cs_append, List.take_append_drop]
    rw [e, List.getElem?_append_left (List.getElem?_eq_some_iff.1 hu).1]
    exact hu
theorem In.drop {α : Type} {E : El α} (ok : E.Ok) {w : World} {B off n cap : Nat} {l : List α} (h : In E w (.slice (some ⟨B, off, none⟩) n cap) l) (k : Nat) (hk : k ≤ l.length) :
    (cap ≠ k → In E w (.slice (some ⟨B, off + k * E.sz, none⟩) (l.length - k) (cap - k)) (l.drop k)) ∧ (cap = k → In E w (.slice (some ⟨B, off, none⟩) (l.length - k) (cap - k)) (l.drop k)) := by
  rcases h with ⟨h, _⟩ | ⟨a, cap', e, h1, h2, h3⟩
  · cases h
  · injection e with e1 e2 e3
    injection e1 with e1
    subst e1
    subst e3
    refine ⟨fun hc => .inr ⟨_, cap - k, by rw [List.length_drop], by rw [List.length_drop]; omega, by omega, fun j u hu => ?_⟩, fun hc => .inr ⟨_, cap - k, by rw [List.length_drop], by rw [List.length_drop]; omega, by omega, fun j u hu => ?_⟩⟩
    · have e : E.cs l = E.cs (l.take k) ++ E.cs (l.drop k) := by rw [← El.cs_append, List.take_append_drop]
      have hl : (E.cs (l.take k)).length = k * E.sz := by rw [ok.length, List.length_take, Nat.min_eq_left hk]
      have := h3 (k * E.sz + j) u (by rw [e, List.getElem?_append_right (by omega), hl, Nat.add_sub_cancel_left]; exact hu)
      rw [Addr.add_lit] at this ⊢
      rw [← Nat.add_assoc] at this
      exact this
    · have : l.drop k = [] := List.drop_of_length_le (by omega)
      rw [this] at hu
      simp [El.cs] at hu

set_option maxHeartbeats 8000000 in
set_option maxRecDepth 100000 in
theorem read_small (s t : SV) (l : List Fd) (names : List ByteArray) (w : World) (hI : In EFd w (sv s) l) (hN : In ES w (sv t) names) (hbad : 64 < l.length ∨ l.any wrongB = true ∨ l.length < names.length) (hm2 : names.length ≤ 64) :
    Calls Tryd.prog 64 #[sv s, sv t] w fun e w' => RdPost l names w e w' := by
  have hW : Hid (Calls Tryd.prog 78 #[sv s, .func (.func 79) #[] #[]] w fun e w' => e = .returned (.bool (l.any wrongB)) ∧ Below w.heap.size w w') := containsFunc_any 79 wrongB wrong_any en74 s l w hI
  obtain ⟨sb, sl, sc⟩ := s
  obtain ⟨tb, tl, tc⟩ := t
  have es : sl = l.length := by obtain ⟨_, _, e, _⟩ := hI.slice; simp only [sv] at e; injection e
  have et : tl = names.length := by obtain ⟨_, _, e, _⟩ := hN.slice; simp only [sv] at e; injection e
  subst es et
  simp only [sv] at hW ⊢
  clear hI hN
  have fin : Hid (rdE l names ≠ 0 → ∀ w', Below w.heap.size w w' → RdPost l names w (.returned (.tuple #[.slice none 0 0, .slice none 0 0, .int .i64 (rdE l names)])) w') := fun h0 w' hb => ⟨(none, 0, 0), (none, 0, 0), rfl, hb, fun h => absurd h h0⟩
  by_cases h1 : 64 < l.length
  · have e1 : rdE l names = 3 := by unfold rdE; rw [if_pos h1]
    have h1' : (64 : Int) < (l.length : Int) := by omega
    rw [e1] at fin
    clear h1 hbad e1
    go_enter Tryd.func64, Tryd.ntmps64
    go_wp2_with fail
    go_ret3
    exact fin.out (by decide) _ (Below.refl _ _)
  · have h1' : ¬ (64 : Int) < (l.length : Int) := by omega
    cases h2 : l.any wrongB
    · rw [h2] at hW
      have h3 : l.length < names.length := by
        rcases hbad with h | h | h
        · exact absurd h h1
        · rw [h2] at h; cases h
        · exact h
      have h3' : (l.length : Int) < (names.length : Int) := by omega
      have e1 : rdE l names = 131 := by unfold rdE; rw [if_neg h1, if_neg (by rw [h2]; decide), if_pos h3]
      rw [e1] at fin
      clear h1 h2 h3 hbad e1
      go_enter Tryd.func64, Tryd.ntmps64
      go_wp2_with fail
      go_at_call 78
      refine hW.out.mono ?_
      rintro e w1 ⟨rfl, hb⟩
      replace hb : Hid (Below w.heap.size w w1) := hb
      go_wp2_with fail
      go_ret3
      exact fin.out (by decide) _ hb.out
    · rw [h2] at hW
      have e1 : rdE l names = 130 := by unfold rdE; rw [if_neg h1, if_pos h2]
      rw [e1] at fin
      clear h1 h2 hbad e1
      go_enter Tryd.func64, Tryd.ntmps64
      go_wp2_with fail
      go_at_call 78
      refine hW.out.mono ?_
      rintro e w1 ⟨rfl, hb⟩
      replace hb : Hid (Below w.heap.size w w1) := hb
      go_wp2_with fail
      go_ret3
      exact fin.out (by decide) _ hb.out
end Go.Proofs.YtcadlpmopplkeaaDoor
