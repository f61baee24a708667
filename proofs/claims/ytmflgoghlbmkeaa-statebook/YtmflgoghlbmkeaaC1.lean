/- The script; plain facts on what Next answers. -/
import Derived.Test.YtmflgoghlbmkeaaB1
namespace Go.Proofs.Ytmflgoghlbmkeaa
open Go.RowKit
set_option linter.unusedVariables false
set_option linter.unusedSimpArgs false

/-- a step of the script: got, kind -/
abbrev OP := Bool × Int
def EO : El OP := ⟨22, 25, 2, 16, fun x => [.bool x.1, .int .i64 x.2]⟩
theorem okO : EO.Ok := ⟨Try.underlying22, by kernel_rfl, by decide, by decide, fun _ => rfl, fun a u hu => by
  simp only [EO, List.mem_cons, List.not_mem_nil, or_false] at hu
  rcases hu with rfl | rfl <;> rfl⟩
theorem In.op {w : World} {v : Value} {l : List OP} (h : In EO w v l) (k : Nat) (hk : k < l.length) : ∃ B off cap, v = .slice (some ⟨B, off, none⟩) l.length cap ∧ B < w.heap.size ∧ w.cell? ⟨B, off + k * 2, none⟩ = some (.bool l[k].1) ∧ w.cell? ⟨B, off + k * 2 + 1, none⟩ = some (.int .i64 l[k].2) := by
  obtain ⟨B, off, cap, h1, h2, h3⟩ := h.get okO k hk
  exact ⟨B, off, cap, h1, h2, h3 0 _ rfl, h3 1 _ rfl⟩

/-- the states that there are -/
def St (s : Int) : Prop := 0 ≤ s ∧ s ≤ 6

/-- what holds of all cells of both tables -/
theorem cells_all (P : Int → Bool → Int → Int × Int × Int → Prop) (h : ∀ g : Bool, ∀ s : Fin 7, ∀ k : Fin 8, P (s.val : Int) g ((k.val : Int) + 1) (tb g s.val (k.val + 1))) (s : Int) (g : Bool) (k : Int) (hs : St s) (hk : 1 ≤ k ∧ k ≤ 8) : P s g k (nx s g k) := by
  obtain ⟨h1, h2⟩ := hs
  obtain ⟨h3, h4⟩ := hk
  have := h g ⟨s.toNat, by omega⟩ ⟨k.toNat - 1, by omega⟩
  simp only at this
  have e1 : (s.toNat : Int) = s := by omega
  have e2 : ((k.toNat - 1 : Nat) : Int) + 1 = k := by omega
  have e3 : k.toNat - 1 + 1 = k.toNat := by omega
  rw [e1, e2, e3] at this
  unfold nx
  rw [if_pos ⟨h1, h2, h3, h4⟩]
  exact this

/-- what we send: Barred, and nothing has turned, or Fine; and what the other end says to it -/
theorem mirrored (s k : Int) (hs : St s) : nx s false k = (s, 4, 0) ∨ ∃ n, nx s false k = (n, 0, 0) ∧ St n ∧ ∃ x, nx (mi s) true k = (mi n, x, 0) ∧ (x = 0 ∨ x = 1) := by
  by_cases hk : 1 ≤ k ∧ k ≤ 8
  · obtain ⟨h1, h2⟩ := hs
    rcases states ⟨h1, h2⟩ with rfl | rfl | rfl | rfl | rfl | rfl | rfl <;> rcases kinds hk with rfl | rfl | rfl | rfl | rfl | rfl | rfl | rfl <;>
      first
        | exact .inl rfl
        | exact .inr ⟨_, rfl, ⟨by decide, by decide⟩, 0, rfl, .inl rfl⟩
        | exact .inr ⟨_, rfl, ⟨by decide, by decide⟩, 1, rfl, .inr rfl⟩
  · exact .inl (nx_out (by omega))
theorem mi_St {s : Int} (h : St s) : St (mi s) := by
  unfold St mi at *
  repeat' split
  all_goals omega
theorem mi_mi (s : Int) : mi (mi s) = s := by
  unfold mi
  repeat' split
  all_goals omega
end Go.Proofs.Ytmflgoghlbmkeaa
