/- FeedBroken: plain facts. -/
import Derived.Test.YtmhbaaemihljjaaDoorL2
namespace Go.Proofs.YtmhbaaemihljjaaDoor
open Go.RowKit
set_option linter.unusedVariables false
set_option linter.unusedSimpArgs false

def longL : List UInt8 := [0, 64, 1, 0, 0, 0, 0, 0, 1] ++ pingL
theorem next_b1 : nextS ⟨⟨#[]⟩, pingL ++ longL, 16384, 0⟩ = ⟨(pingF, []), true, 0, 0, ⟨⟨#[]⟩, longL, 16384, 0⟩⟩ := by rw [nextS_eq]; kernel_rfl
theorem next_b2 : nextS ⟨⟨#[]⟩, longL, 16384, 0⟩ = ⟨(Fr.zero, []), false, 6, 0, deadS 6⟩ := by rw [nextS_eq]; kernel_rfl
theorem next_none : nextS ⟨⟨#[]⟩, [], 16384, 0⟩ = ⟨(Fr.zero, []), false, 0, 0, ⟨⟨#[]⟩, [], 16384, 0⟩⟩ := by rw [nextS_eq]; kernel_rfl
theorem next_b3 (m : Int) : nextS ⟨⟨#[]⟩, [], m, 6⟩ = ⟨(Fr.zero, []), false, 6, 0, deadS 6⟩ := by
  unfold nextS
  rw [if_pos (show (6 : Int) ≠ 0 by decide)]
  rfl
theorem push_dead6 (s : ByteArray) : pushS (deadS 6) s = deadS 6 := if_neg (by decide)

/-- a Priority of four bytes -/
def prioL (n v : List UInt8) : List UInt8 := [0, 0, 4, 2, 0] ++ n ++ v
theorem next_ping_app (X : List UInt8) : nextS ⟨⟨#[]⟩, pingL ++ X, 16384, 0⟩ = ⟨(pingF, []), true, 0, 0, ⟨⟨#[]⟩, X, 16384, 0⟩⟩ := by
  have h1 : rdL pingL 16384 = ((pingF, []), 17, 0, 0) := by kernel_rfl
  have h2 : rdL (pingL ++ X) 16384 = ((pingF, []), 17, 0, 0) := by
    rw [rdL_app _ _ _ (by rw [h1]; intro e; simp at e), h1]
  have hp : passL ⟨⟨#[]⟩, pingL ++ X, 16384, 0⟩ = (true, ⟨⟨#[]⟩, pingL ++ X, 16384, 0⟩) := by
    unfold passL
    have hn : nS ⟨⟨#[]⟩, pingL ++ X, 16384, 0⟩ = 0 := by unfold nS; exact Nat.min_zero _
    rw [hn]
    rfl
  rw [nextS_eq]
  unfold nextL
  rw [hp]
  have hr : rfS ⟨⟨#[]⟩, pingL ++ X, 16384, 0⟩ = ⟨⟨#[]⟩, X, 16384, 0⟩ := by
    unfold rfS
    rw [h2]
    rfl
  simp only [h2, hr]
  rfl

theorem next_prio (a b c d e f g h : UInt8) (X : List UInt8) (id : Nat) (hid : numL [a, b, c, d] = id) (h1 : 1 ≤ id) (h2 : id ≤ 2147483647) :
    nextS ⟨⟨#[]⟩, prioL [a, b, c, d] [e, f, g, h] ++ X, 16384, 0⟩ = ⟨(Fr.zero, []), false, 6, (id : Int), ⟨⟨#[]⟩, X, 16384, 0⟩⟩ := by
  have hs : stS ⟨#[0, 0, 4, 2, 0, a, b, c, d, e, f, g, h]⟩ = (id : Int) := by
    have : numS ((⟨#[0, 0, 4, 2, 0, a, b, c, d, e, f, g, h]⟩ : ByteArray).extract 5 9) = id := hid
    unfold stS
    rw [this]
    omega
  have hp : parseS ⟨#[0, 0, 4, 2, 0, a, b, c, d, e, f, g, h]⟩ = ((Fr.zero, []), 6, (id : Int)) := by
    have ht : tyS ⟨#[0, 0, 4, 2, 0, a, b, c, d, e, f, g, h]⟩ = 2 := rfl
    have hk : kiS ⟨#[0, 0, 4, 2, 0, a, b, c, d, e, f, g, h]⟩ = 2 := rfl
    have hf : flS ⟨#[0, 0, 4, 2, 0, a, b, c, d, e, f, g, h]⟩ = 0 := (show flS ⟨#[0, 0, 4, 2, 0, a, b, c, d, e, f, g, h]⟩ = bits .and .i64 0 0 from rfl).trans (by kernel_rfl)
    have hpd : pdS ⟨#[0, 0, 4, 2, 0, a, b, c, d, e, f, g, h]⟩ = false := by unfold pdS; rw [ht, hf]; kernel_rfl
    unfold parseS
    rw [hs, ht, hk, hf, hpd]
    unfold parseB
    rw [if_neg (by rintro (h | h) <;> simp [kfrom, kto] at h <;> omega), if_pos (by rfl), if_pos rfl]
  have hl : rdL (prioL [a, b, c, d] [e, f, g, h]) 16384 = ((Fr.zero, []), 13, 6, (id : Int)) := by
    rw [rdL_eq]
    have hn : n3 (prioL [a, b, c, d] [e, f, g, h]) = 4 := rfl
    have hw : (prioL [a, b, c, d] [e, f, g, h]).length = 13 := rfl
    have htk : (prioL [a, b, c, d] [e, f, g, h]).take (9 + 4) = prioL [a, b, c, d] [e, f, g, h] := rfl
    have hpp : parseS ⟨(prioL [a, b, c, d] [e, f, g, h]).toArray⟩ = ((Fr.zero, []), 6, (id : Int)) := hp
    rw [hn, hw, htk, hpp, if_neg (by decide), if_neg (by decide), if_neg (by decide), if_neg (by rintro ⟨_, h⟩; simp at h; omega)]
    rfl
  have hl2 : rdL (prioL [a, b, c, d] [e, f, g, h] ++ X) 16384 = ((Fr.zero, []), 13, 6, (id : Int)) := by
    rw [rdL_app _ _ _ (by rw [hl]; intro e; simp at e), hl]
  have hps : passL ⟨⟨#[]⟩, prioL [a, b, c, d] [e, f, g, h] ++ X, 16384, 0⟩ = (true, ⟨⟨#[]⟩, prioL [a, b, c, d] [e, f, g, h] ++ X, 16384, 0⟩) := by
    unfold passL
    have hn : nS ⟨⟨#[]⟩, prioL [a, b, c, d] [e, f, g, h] ++ X, 16384, 0⟩ = 0 := by unfold nS; exact Nat.min_zero _
    rw [hn]
    rfl
  rw [nextS_eq]
  unfold nextL
  rw [hps]
  have hne : ¬ (id : Int) = 0 := by omega
  have hr : rfS ⟨⟨#[]⟩, prioL [a, b, c, d] [e, f, g, h] ++ X, 16384, 0⟩ = ⟨⟨#[]⟩, X, 16384, 0⟩ := by
    unfold rfS
    simp only [hl2, if_neg hne]
    rfl
  simp only [hl2, hr, okR]
  simp [shutR, hne]
end Go.Proofs.YtmhbaaemihljjaaDoor
