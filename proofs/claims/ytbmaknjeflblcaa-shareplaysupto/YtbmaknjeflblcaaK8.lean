/- share: firstOfEach. -/
import Derived.Test.YtbmaknjeflblcaaK7
import Derived.Test.YtbmaknjeflblcaaK0
namespace Go.Proofs.Ytbmaknjeflblcaa
open Go.RowKit Go.Maps
set_option linter.unusedVariables false
set_option linter.unusedSimpArgs false

/-- rows of numbers, of what is left -/
def EI : El Int := ⟨22, 2, 1, 8, fun x => [.int .i64 x]⟩
theorem okI : EI.Ok := ⟨Try.underlying22, by kernel_rfl, by decide, by decide, fun _ => rfl, fun a u hu => by
  simp only [EI, List.mem_cons, List.not_mem_nil, or_false] at hu
  rcases hu with rfl <;> rfl⟩
theorem cs_I (l : List Int) : EI.cs l = l.map (Value.int .i64) := by
  induction l with
  | nil => rfl
  | cons a r ih => rw [List.map_cons, ← ih]; rfl
def EL : El (Int × Int) := ⟨39, 43, 2, 16, fun x => [.int .i64 x.1, .int .i64 x.2]⟩
theorem okL : EL.Ok := ⟨Try.underlying39, by kernel_rfl, by decide, by decide, fun _ => rfl, fun a u hu => by
  simp only [EL, List.mem_cons, List.not_mem_nil, or_false] at hu
  rcases hu with rfl | rfl <;> rfl⟩
theorem In.lf {w : World} {v : Value} {l : List (Int × Int)} (h : In EL w v l) (k : Nat) (hk : k < l.length) : ∃ B off cap, v = .slice (some ⟨B, off, none⟩) l.length cap ∧ ∀ W, Below w.heap.size w W → W.cell? ⟨B, off + k * 2, none⟩ = some (.int .i64 l[k].1) ∧ W.cell? ⟨B, off + k * 2 + 1, none⟩ = some (.int .i64 l[k].2) := by
  obtain ⟨B, off, cap, e, hB, d⟩ := h.get okL k hk
  exact ⟨B, off, cap, e, fun W hb => ⟨(hb.cell hB).trans (d 0 _ rfl), (hb.cell hB).trans (d 1 _ rfl)⟩⟩
theorem In.int {w : World} {v : Value} {l : List Int} (h : In EI w v l) (k : Nat) (hk : k < l.length) : ∃ B off cap, v = .slice (some ⟨B, off, none⟩) l.length cap ∧ ∀ W, Below w.heap.size w W → W.cell? ⟨B, off + k, none⟩ = some (.int .i64 l[k]) := by
  obtain ⟨B, off, cap, e, hB, d⟩ := h.get okI k hk
  exact ⟨B, off, cap, e, fun W hb => by have := (hb.cell hB).trans (d 0 _ rfl); simpa [EI] using this⟩

/-- what firstOfEach tells -/
def fo1 (M : Mp Int) (x : Int × Int) : Mp Int := if (look M x.1).isSome = true then M else putm M x.1 x.2
def fo (l : List (Int × Int)) : Mp Int := l.foldl fo1 []
def lf (l : List (Int × Int)) (id : Int) : Int := ((l.find? (fun x => x.1 == id)).map (·.2)).getD 0
theorem fo_snoc (l : List (Int × Int)) (x : Int × Int) : fo (l ++ [x]) = fo1 (fo l) x := by simp [fo]
theorem fo_srt_len : ∀ (l : List (Int × Int)) (M : Mp Int), Srt M → Srt (l.foldl fo1 M)
  | [], _, h => h
  | x :: r, M, h => by
    refine fo_srt_len r _ ?_
    unfold fo1
    split
    · exact h
    · exact h.putm _ _
theorem fo_look : ∀ (l : List (Int × Int)) (M : Mp Int) (id : Int), Srt M → look (l.foldl fo1 M) id = match look M id with | some v => some v | none => (l.find? (fun x => x.1 == id)).map (·.2)
  | [], M, id, h => by cases hl : look M id <;> simp [hl]
  | x :: r, M, id, h => by
    have hs : Srt (fo1 M x) := by
      unfold fo1
      split
      · exact h
      · exact h.putm _ _
    rw [List.foldl_cons, fo_look r _ id hs]
    unfold fo1
    by_cases hx : (look M x.1).isSome = true
    · rw [if_pos hx]
      cases hl : look M id with
      | some v => rfl
      | none =>
        simp only
        have hne : ¬ x.1 = id := fun e => by rw [e, hl] at hx; cases hx
        rw [List.find?_cons_of_neg (by simpa using hne)]
    · rw [if_neg hx, look_putm h]
      by_cases e : id = x.1
      · rw [if_pos e]
        cases hl : look M id with
        | some v => rw [← e, hl] at hx; simp at hx
        | none => rw [List.find?_cons_of_pos (by simpa using e.symm)]; rfl
      · rw [if_neg e]
        cases hl : look M id with
        | some v => rfl
        | none => rw [List.find?_cons_of_neg (by simpa using fun h => e h.symm)]
theorem fo_lf (l : List (Int × Int)) (id : Int) : (look (fo l) id).getD 0 = lf l id := by
  unfold fo lf
  rw [fo_look l [] id List.Pairwise.nil]
  rfl
theorem slice_len {α : Type} {E : El α} {w : World} {b : Option Addr} {n c : Nat} {l : List α} (h : In E w (.slice b n c) l) : n = l.length ∧ l.length ≤ c ∧ c ≤ 9223372036854775807 := by
  obtain ⟨_, _, e, q1, q2⟩ := h.slice
  injection e with _ e1 e2
  subst e2
  exact ⟨e1, q1, q2⟩
def Wf2 (l : List (Int × Int)) : Prop := ∀ x ∈ l, wf64 x.1 ∧ wf64 x.2
set_option maxRecDepth 100000 in
set_option maxHeartbeats 2000000 in
theorem fo_any (w : World) (v : SV) (l : List (Int × Int)) (hI : In EL w (sv v) l) (hw : Wf2 l) (hn : l.length < 4611686018427387904) :
    Calls Try.prog 25 #[sv v] w fun e w' => e = .returned (.map (some w.heap.size)) ∧ (∃ n, w'.ownsMap Try.prog 2 (plainElem (H := Value) Try.prog 2) w.heap.size n (mD lg (fo l))) ∧ Below w.heap.size w w' ∧ w.heap.size < w'.heap.size := by
  obtain ⟨b, m, c⟩ := v
  unfold sv at hI ⊢
  simp only at hI ⊢
  obtain ⟨rfl, hc1, hc2⟩ := slice_len hI
  have hmm := @run_makeMap Try.prog
  have HI : Hid (In EL w (.slice b l.length c) l) := hI
  have HW : Hid (Wf2 l) := hw
  clear hI hw
  go_enter Try.func25, Try.ntmps25
  go_wp2_with fail
  go_loopw [5, 6, 7, 11] (fun _ _ _ kv wr => ∃ k : Nat, kv = .int .i64 (k : Int) ∧ k ≤ l.length ∧ Hid (∃ n, n ≤ k ∧ wr.ownsMap Try.prog 2 (plainElem (H := Value) Try.prog 2) w.heap.size n (mD lg (fo (l.take k)))) ∧ Hid (Below w.heap.size w wr) ∧ w.heap.size < wr.heap.size) (fun _ _ _ kv _ => l.length - (intOf kv).toNat)
  case atStart => exact ⟨0, rfl, by omega, ⟨0, by omega, World.ownsMap_made (H := Value) w Try.prog 2 _⟩, bel1 w _, by simp⟩
  case round =>
    obtain ⟨k, rfl, hk, hm, hB, hsz⟩ := hrel
    obtain ⟨n, hnk, hown⟩ := hm.out
    clear hm
    by_cases hlt : k < l.length
    · have l1 : (k : Int) < (l.length : Int) := by omega
      obtain ⟨Bk, off, cap, e, hc⟩ := HI.out.lf k hlt
      injection e with e1 e2 e3
      subst e1
      clear e2 e3
      obtain ⟨d0, d1⟩ := hc wr hB.out
      clear hc
      have hwk := HW.out l[k] (List.getElem_mem hlt)
      have htk : Hid (l.take (k + 1) = l.take k ++ [l[k]]) := by show _ = _; rw [List.take_succ_eq_append_getElem hlt]
      obtain ⟨x, hx⟩ : ∃ x, l[k] = x := ⟨_, rfl⟩
      rw [hx] at d0 d1 hwk htk
      clear hx
      obtain ⟨x1, x2⟩ := x
      simp only at d0 d1 hwk
      have hown1 := hown.alloc (Obj.cells #[.int .i64 x1, .int .i64 x2] 43)
      obtain ⟨v2, ps2, hrun2, hv2⟩ := hown1.look_ok law2 Try.underlying71 (zero2 _) (plainElem_int (H := Value) Try.underlying2 (q := .i64) (a := 0) (by decide)) (key_int hwk.1)
      obtain ⟨c2, rfl, _, _⟩ := plainElem_int_inv Try.underlying2 hv2
      rw [has_mD] at hrun2
      clear hv2
      cases hlk : (look (fo (l.take k)) x1).isSome
      · rw [hlk] at hrun2
        have hfo : Hid (fo (l.take (k + 1)) = putm (fo (l.take k)) x1 x2) := by show _ = _; rw [htk.out, fo_snoc, fo1, hlk]; rfl
        clear hlk htk
        have hkey := key_int hwk.1
        have hval := plainElem_int (H := Value) Try.underlying2 (q := .i64) (a := x2) (WalkArith.wf_i64 hwk.2)
        have hnm : n < maxLen := by unfold maxLen; omega
        go_wp2_with (first
          | (at_mapUpdate; refine wpList_mapUpdate_own _ rfl _ _ _ 71 rfl 2 2 law2 Try.underlying71 _ w.heap.size _ _ rfl hown1 hnm _ _ _ rfl rfl hkey _ [] hval ?_; intro w3 hown3 hg3)
          | go_in)
        go_roundw
        case rel => exact ⟨k + 1, by simp, by omega, ⟨n + 1, by omega, by rw [hfo.out, ← put_mD]; exact hown3⟩, (hB.out.trans ((bel1 wr _).mono hB.out.size)).trans ((ks_grown hg3).below (by simp; omega) (fun i hi e => by omega)), by have := hg3.size; simp at this; omega⟩
        case measure => simp [intOf]; omega
      · rw [hlk] at hrun2
        have hfo : Hid (fo (l.take (k + 1)) = fo (l.take k)) := by show _ = _; rw [htk.out, fo_snoc, fo1, hlk]; rfl
        clear hlk htk
        go_wp2_with fail
        go_roundw
        case rel => exact ⟨k + 1, by simp, by omega, ⟨n, by omega, by rw [hfo.out]; exact hown1⟩, hB.out.trans ((bel1 wr _).mono hB.out.size), by simp; omega⟩
        case measure => simp [intOf]; omega
    · obtain rfl : k = l.length := by omega
      rw [List.take_length] at hown
      clear hlt
      go_wp2_with fail
      go_ret
      exact ⟨rfl, ⟨n, hown⟩, hB.out, hsz⟩
end Go.Proofs.Ytbmaknjeflblcaa
