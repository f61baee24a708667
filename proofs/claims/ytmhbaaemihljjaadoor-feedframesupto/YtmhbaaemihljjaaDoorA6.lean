/- Which payload, which functions: what they ask and do. -/
import Derived.Test.YtmhbaaemihljjaaDoorA3
import Derived.Test.YtmhbaaemihljjaaDoorA4
namespace Go.Proofs.YtmhbaaemihljjaaDoor
open Go.RowKit
set_option linter.unusedVariables false
set_option linter.unusedSimpArgs false

theorem FB.cells {w : World} {g : Nat} {f : Fr} {p : Value} (h : FB w g f p) : w.cell? ⟨g, 0, none⟩ = some (.int .i64 f.ty) ∧ w.cell? ⟨g, 1, none⟩ = some (.int .i64 f.fl) ∧ w.cell? ⟨g, 2, none⟩ = some (.int .i64 f.st) ∧ w.cell? ⟨g, 3, none⟩ = some (.string f.data) ∧ w.cell? ⟨g, 4, none⟩ = some (.int .i64 f.pad) ∧ w.cell? ⟨g, 5, none⟩ = some (.int .i64 f.dep) ∧ w.cell? ⟨g, 6, none⟩ = some (.bool f.excl) ∧ w.cell? ⟨g, 7, none⟩ = some (.int .i64 f.wt) ∧ w.cell? ⟨g, 8, none⟩ = some (.int .i64 f.code) ∧ w.cell? ⟨g, 9, none⟩ = some (.int .i64 f.last) ∧ w.cell? ⟨g, 10, none⟩ = some (p) :=
  ⟨h.cell 0, h.cell 1, h.cell 2, h.cell 3, h.cell 4, h.cell 5, h.cell 6, h.cell 7, h.cell 8, h.cell 9, h.cell 10⟩
theorem FB.frozens {w : World} {g : Nat} {f : Fr} {p : Value} (h : FB w g f p) : w.frozen? ⟨g, 0, none⟩ = false ∧ w.frozen? ⟨g, 1, none⟩ = false ∧ w.frozen? ⟨g, 2, none⟩ = false ∧ w.frozen? ⟨g, 3, none⟩ = false ∧ w.frozen? ⟨g, 4, none⟩ = false ∧ w.frozen? ⟨g, 5, none⟩ = false ∧ w.frozen? ⟨g, 6, none⟩ = false ∧ w.frozen? ⟨g, 7, none⟩ = false ∧ w.frozen? ⟨g, 8, none⟩ = false ∧ w.frozen? ⟨g, 9, none⟩ = false ∧ w.frozen? ⟨g, 10, none⟩ = false :=
  ⟨h.frozen 0, h.frozen 1, h.frozen 2, h.frozen 3, h.frozen 4, h.frozen 5, h.frozen 6, h.frozen 7, h.frozen 8, h.frozen 9, h.frozen 10⟩

/-- what a payload's bytes say -/
def takeS (k4 : Nat) (f : Fr) (b : ByteArray) : Fr × List (Int × Int) :=
  if k4 = 51 then (dataS (prioS f (b.extract 0 5)) (b.extract 5 b.size), [])
  else if k4 = 54 then (prioS f b, [])
  else if k4 = 56 then (codeS f b, [])
  else if k4 = 58 then (f, prmS b (b.size / 6))
  else if k4 = 61 then (dataS (lastS f (b.extract 0 4)) (b.extract 4 b.size), [])
  else if k4 = 65 then (dataS (codeS (lastS f (b.extract 0 4)) (b.extract 4 8)) (b.extract 8 b.size), [])
  else if k4 = 67 then (lastS f b, [])
  else (dataS f b, [])

theorem kd_cases (ty fl : Int) : kd ty fl = (72, 5, 50, 51) ∨ kd ty fl = (73, 5, 53, 54) ∨ kd ty fl = (73, 4, 55, 56) ∨ kd ty fl = (73, 0, 57, 58) ∨ kd ty fl = (74, 6, 57, 58) ∨ kd ty fl = (72, 4, 60, 61) ∨ kd ty fl = (73, 8, 62, 63) ∨ kd ty fl = (72, 8, 64, 65) ∨ kd ty fl = (73, 4, 66, 67) ∨ kd ty fl = (72, 0, 62, 63) := by
  unfold kd
  repeat' split
  all_goals simp

theorem kd_fits {ty fl : Int} {k1 : Nat} {k2 : Int} {k3 k4 : Nat} (h : kd ty fl = (k1, k2, k3, k4)) (n : Int) (g : Nat) (w : World) (hc : w.cell? ⟨g, 0, none⟩ = some (.int .i64 k2)) :
    Calls Tryd.prog k1 #[.int .i64 n, .pointer (some ⟨g, 0, none⟩)] w fun e w' => e = .returned (.bool (ftS k1 k2 n)) ∧ w' = w := by
  rcases kd_cases ty fl with hk | hk | hk | hk | hk | hk | hk | hk | hk | hk
  all_goals
    rw [hk] at h
    simp only [Prod.mk.injEq] at h
    obtain ⟨rfl, rfl, rfl, rfl⟩ := h
    first | exact fits68 n _ g w hc | exact fits69 n _ g w hc | exact fits70 n g w hc

theorem kd_calls {ty fl : Int} {k1 : Nat} {k2 : Int} {k3 k4 : Nat} (h : kd ty fl = (k1, k2, k3, k4)) : (∀ (args : Array Value) (w : World), (callFunc k1 args).run Tryd.prog w = .ok (.enter k1 args) w) ∧ (∀ (args : Array Value) (w : World), (callFunc k3 args).run Tryd.prog w = .ok (.enter k3 args) w) ∧ (∀ (args : Array Value) (w : World), (callFunc k4 args).run Tryd.prog w = .ok (.enter k4 args) w) := by
  rcases kd_cases ty fl with hk | hk | hk | hk | hk | hk | hk | hk | hk | hk
  all_goals
    rw [hk] at h
    simp only [Prod.mk.injEq] at h
    obtain ⟨rfl, rfl, rfl, rfl⟩ := h
  · exact ⟨Tryd.call72, Tryd.call50, Tryd.call51⟩
  · exact ⟨Tryd.call73, Tryd.call53, Tryd.call54⟩
  · exact ⟨Tryd.call73, Tryd.call55, Tryd.call56⟩
  · exact ⟨Tryd.call73, Tryd.call57, Tryd.call58⟩
  · exact ⟨Tryd.call74, Tryd.call57, Tryd.call58⟩
  · exact ⟨Tryd.call72, Tryd.call60, Tryd.call61⟩
  · exact ⟨Tryd.call73, Tryd.call62, Tryd.call63⟩
  · exact ⟨Tryd.call72, Tryd.call64, Tryd.call65⟩
  · exact ⟨Tryd.call73, Tryd.call66, Tryd.call67⟩
  · exact ⟨Tryd.call72, Tryd.call62, Tryd.call63⟩

/-- a length that fits is none below 0 -/
theorem ft_nonneg {ty fl : Int} {k1 : Nat} {k2 : Int} {k3 k4 : Nat} (h : kd ty fl = (k1, k2, k3, k4)) (n : Int) (hn : -1 ≤ n ∨ k1 = 72) (hf : ftS k1 k2 n = true) : 0 ≤ n := by
  rcases kd_cases ty fl with hk | hk | hk | hk | hk | hk | hk | hk | hk | hk
  all_goals
    rw [hk] at h
    simp only [Prod.mk.injEq] at h
    obtain ⟨rfl, rfl, rfl, rfl⟩ := h
    simp [ftS] at hf
    try omega
  rcases hn with hn | hn
  · by_cases h1 : n = -1
    · subst h1; simp at hf
    · omega
  · omega

theorem kd_nonneg {ty fl : Int} {k1 : Nat} {k2 : Int} {k3 k4 : Nat} (h : kd ty fl = (k1, k2, k3, k4)) : 0 ≤ k2 := by
  rcases kd_cases ty fl with hk | hk | hk | hk | hk | hk | hk | hk | hk | hk
  all_goals
    rw [hk] at h
    simp only [Prod.mk.injEq] at h
    omega

theorem ft68 {m n : Int} (h : ftS 72 m n = true) : m ≤ n := by simpa [ftS] using h
theorem ft69 {m n : Int} (h : ftS 73 m n = true) : n = m := by simpa [ftS] using h
theorem ft70 {n : Nat} (h : ftS 74 6 (n : Int) = true) : n % 6 = 0 := by
  have h1 : (n : Int).tmod 6 = 0 := by simpa [ftS] using h
  rw [Int.tmod_eq_emod_of_nonneg (by omega)] at h1
  omega

theorem take_any {ty fl : Int} {k1 : Nat} {k2 : Int} {k3 k4 : Nat} (h : kd ty fl = (k1, k2, k3, k4)) (w : World) (g : Nat) (f : Fr) (b : ByteArray) (hF : FB w g f (.slice none 0 0)) (hf : ftS k1 k2 (b.size : Int) = true) (hlim : b.size ≤ 140737488355328) (hlim2 : k4 = 58 → b.size / 6 * 16 ≤ 140737488355328) :
    Calls Tryd.prog k4 #[.pointer (some ⟨g, 0, none⟩), .string b] w fun e w' => e = .returned (.tuple #[]) ∧ ∃ p, FB w' g (takeS k4 f b).1 p ∧ PRow w' p (takeS k4 f b).2 ∧ (∀ k, p.ownBlock = some k → w.heap.size ≤ k) ∧ Kp g w w' := by
  have hnil : ∀ k, (Value.slice none 0 0).ownBlock = some k → w.heap.size ≤ k := fun k hk => by simp [Value.ownBlock] at hk
  rcases kd_cases ty fl with hk | hk | hk | hk | hk | hk | hk | hk | hk | hk
  all_goals
    rw [hk] at h
    simp only [Prod.mk.injEq] at h
    obtain ⟨rfl, rfl, rfl, rfl⟩ := h
    first | replace hf := ft70 hf | replace hf := ft68 hf | replace hf := ft69 hf
  · refine (takeHeaders_any w g f _ b hF (by omega) (by omega)).mono ?_
    rintro e w' ⟨rfl, h1, h2⟩
    exact ⟨rfl, _, h1, PRow.nil _, hnil, h2⟩
  · refine (takePriority_any w g f _ b hF (by omega)).mono ?_
    rintro e w' ⟨rfl, h1, h2⟩
    exact ⟨rfl, _, h1, PRow.nil _, hnil, h2⟩
  · refine (takeCode_any w g f _ b hF (by omega)).mono ?_
    rintro e w' ⟨rfl, h1, h2⟩
    exact ⟨rfl, _, h1, PRow.nil _, hnil, h2⟩
  · exact takeParams_any w g f b hF (by omega) (hlim2 rfl)
  · exact takeParams_any w g f b hF (by omega) (hlim2 rfl)
  · refine (takePromise_any w g f _ b hF (by omega) (by omega)).mono ?_
    rintro e w' ⟨rfl, h1, h2⟩
    exact ⟨rfl, _, h1, PRow.nil _, hnil, h2⟩
  · refine (takeData_any w g f _ b hF (by omega)).mono ?_
    rintro e w' ⟨rfl, h1, h2⟩
    exact ⟨rfl, _, h1, PRow.nil _, hnil, h2⟩
  · refine (takeGoAway_any w g f _ b hF (by omega) (by omega)).mono ?_
    rintro e w' ⟨rfl, h1, h2⟩
    exact ⟨rfl, _, h1, PRow.nil _, hnil, h2⟩
  · refine (takeLast_any w g f _ b hF (by omega)).mono ?_
    rintro e w' ⟨rfl, h1, h2⟩
    exact ⟨rfl, _, h1, PRow.nil _, hnil, h2⟩
  · refine (takeData_any w g f _ b hF (by omega)).mono ?_
    rintro e w' ⟨rfl, h1, h2⟩
    exact ⟨rfl, _, h1, PRow.nil _, hnil, h2⟩

end Go.Proofs.YtmhbaaemihljjaaDoor
