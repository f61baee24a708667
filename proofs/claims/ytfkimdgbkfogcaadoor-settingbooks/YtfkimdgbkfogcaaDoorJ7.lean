/- plays: Ack. -/
import Derived.Test.YtfkimdgbkfogcaaDoorJ6
namespace Go.Proofs.YtfkimdgbkfogcaaDoor
open Go.RowKit
set_option linter.unusedVariables false
set_option linter.unusedSimpArgs false

theorem plays_ack (w : World) (b r : Nat) (c : Bool) (s : St) (v : Value) (sx : SV) (xs : List SV) (ls : List (List (Int × Int))) (d : Nat) (h : Pr w b r c s v sx xs ls d) (hT : ∀ W, Ks (Opr b r v sx) w W → Top W) (o2 : Bool) (l1 : Option Addr) (l2 l3 : Nat) :
    Calls Tryd.prog 33 #[.pointer (some ⟨b, 0, none⟩), .pointer (some ⟨r, 0, none⟩), .agg #[.int .i64 2, .bool o2, .slice l1 l2 l3]] w fun e w' => e = .returned (.bool true) ∧ Pend w b r c v sx ls.length w' := by
  by_cases hd : d < ls.length
  · have hx : (applyS s ls[d] c).1 = allS c (ls.take (d + 1)) := by rw [allS_succ c ls d hd, ← h.eq]
    have hch : chain c s (ls.drop d) = allS c (ls.take (d + 1)) :: chain c (allS c (ls.take (d + 1))) (ls.drop (d + 1)) := by
      rw [List.drop_eq_getElem_cons hd, chain, hx]
    refine plays_ack' w b r c s v sx xs ls d h hT o2 l1 l2 l3 (allS c (ls.take (d + 1))) (allS c (ls.take (d + 1))) true (d + 1) ?_ ?_
    · intro W hW hk
      have hb := hW.bk
      rw [hch] at hb
      refine (ack_some W b c s v _ _ hb).mono ?_
      rintro e w1 ⟨rfl, v', k1, k2, k3⟩
      exact ⟨rfl, v', k1, k3, hW.rb.keepB hb k2, hk.trans k2 (fun _ _ e => e) (fun _ _ e => .inl e)⟩
    · rintro W ⟨v', k1, k2, k3, k4⟩
      refine (rack_some W r c sx xs ls d k3 hd (hT W k4)).mono ?_
      rintro e w1 ⟨rfl, j1, j2⟩
      refine ⟨rfl, ⟨v', sx, xs, ls, d + 1, ⟨k1.keepR k3 (j2.mono fun _ _ e => .inl e), j1, rfl⟩, k4.trans j2 (fun _ _ e => e) (fun _ _ e => .inr (.inl e)), rfl, fun k e => .inl (k2 ▸ e), fun k e => .inl e, by omega⟩, fun k cs hk => j2.block k (heap_lt hk) fun e => ?_⟩
      rw [e, k3.blk] at hk
      simp at hk
  · obtain rfl : d = ls.length := by have := h.rb.done; omega
    have hdr : ls.drop ls.length = [] := List.drop_length
    refine plays_ack' w b r c s v sx xs ls ls.length h hT o2 l1 l2 l3 St.zero s false ls.length ?_ ?_
    · intro W hW hk
      have hb := hW.bk
      rw [hdr, chain] at hb
      refine (ack_none W b c s v hb).mono ?_
      rintro e w1 ⟨rfl, k1⟩
      exact ⟨rfl, v, hW.bk.below k1, rfl, hW.rb.below k1, hk.thenBelow k1⟩
    · rintro W ⟨v', k1, k2, k3, k4⟩
      refine (rack_none W r c sx xs ls k3).mono ?_
      rintro e w1 ⟨rfl, j1⟩
      exact ⟨rfl, ⟨v', sx, xs, ls, ls.length, ⟨k1.below j1, k3.below j1, h.eq⟩, k4.thenBelow j1, rfl, fun k e => .inl (k2 ▸ e), fun k e => .inl e, by omega⟩, fun k cs hk => j1.block k (heap_lt hk)⟩
end Go.Proofs.YtfkimdgbkfogcaaDoor
