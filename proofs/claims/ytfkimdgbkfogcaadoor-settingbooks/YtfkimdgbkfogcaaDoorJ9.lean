/- plays: Send. -/
import Derived.Test.YtfkimdgbkfogcaaDoorJ8
namespace Go.Proofs.YtfkimdgbkfogcaaDoor
open Go.RowKit
set_option linter.unusedVariables false
set_option linter.unusedSimpArgs false

set_option maxRecDepth 100000 in
set_option maxHeartbeats 4000000 in
theorem plays_send (w : World) (b r : Nat) (c : Bool) (s : St) (v : Value) (sx : SV) (xs : List SV) (ls : List (List (Int × Int))) (d : Nat) (h : Pr w b r c s v sx xs ls d) (hT : ∀ W, Ks (Opr b r v sx) w W → Top W) (o2 : Bool) (l1 : Option Addr) (l2 l3 : Nat) (l : List (Int × Int)) (hl : ∀ W, Ks (Opr b r v sx) w W → In EP W (.slice l1 l2 l3) l) (hn0 : (l.length + 2) * 16 ≤ 140737488355328) (hx0 : (xs.length + 1) * 24 ≤ 140737488355328) :
    Calls Tryd.prog 33 #[.pointer (some ⟨b, 0, none⟩), .pointer (some ⟨r, 0, none⟩), .agg #[.int .i64 1, .bool o2, .slice l1 l2 l3]] w fun e w' => e = .returned (.bool true) ∧ Pend w b r c v sx ls.length w' := by
  obtain ⟨_, _, he, _, _⟩ := (hl w (Ks.refl _ _)).slice
  injection he with ea he eb
  clear ea eb
  subst he
  obtain ⟨C, hC⟩ : ∃ C, rsendC c ls d l = C := ⟨_, rfl⟩
  have hsame : sendC c s (chain c s (ls.drop d)) l = C := by
    rw [← hC]
    exact send_same c s _ ls d l (by rw [chain_length, List.length_drop]) h.bk.len
  obtain ⟨M, hM⟩ : ∃ M, (if C = 0 then ls.length + 1 - d else ls.length - d) = M := ⟨_, rfl⟩
  have h22 : Calls Tryd.prog 22 #[.slice l1 l.length l3] (w.alloc (.cells #[.int .i64 1, .bool o2, .slice l1 l.length l3] 32)) fun e w1 => ∃ g cap, e = .returned (.slice (some ⟨g, 0, none⟩) l.length cap) ∧ Hid (S1 w b r c s v sx xs ls d l o2 l1 l3 g cap w1) := by
    have hb := bel1 w (.cells #[.int .i64 1, .bool o2, .slice l1 l.length l3] 32)
    refine (lent_any _ _ l (hl _ (Ks.of_below hb)) hn0).mono ?_
    rintro e w1 ⟨g, cap, rfl, k1, k2, k3⟩
    rw [size_al] at k2
    have kb : Below w.heap.size w w1 := hb.trans (k3.mono hb.size)
    exact ⟨g, cap, rfl, h.below kb, Ks.of_below kb, k1, by omega, (k3.block _ (by rw [size_al]; omega)).trans (heap_alloc_new _ _)⟩
  have h12 : ∀ (W : World) (g cap : Nat), Hid (S1 w b r c s v sx xs ls d l o2 l1 l3 g cap W) → Calls Tryd.prog 12 #[.pointer (some ⟨b, 0, none⟩), .slice (some ⟨g, 0, none⟩) l.length cap] W fun e w2 => e = .returned (.int .i64 C) ∧ w2.cell? ⟨w.heap.size, 2, none⟩ = some (.slice l1 l.length l3) ∧ Hid (S2 w b r c s v sx xs ls d l o2 l1 l3 g cap w2) := by
    intro W g cap hW
    obtain ⟨k1, k2, k3, k4, k5⟩ := hW.out
    have hfr : R EP W (.slice (some ⟨g, 0, none⟩) l.length cap) l := R.front okP (r := marks) k3 (fun e => by cases e)
    refine (send_any W b c s v _ k1.bk _ l hfr.isIn).mono ?_
    rintro e w2 ⟨rfl, v', j1, j2, j3⟩
    have ho := (k1.bk.other j2 k5 (by decide) (by decide)).trans k5
    refine ⟨by rw [hsame], cell_blk ho 2, v', j1, fun k e => (j3 k e).imp id fun hh => Nat.le_trans k2.size hh, k1.rb.keepB k1.bk j2, k2.trans j2 (fun _ _ e => e) (fun _ _ e => .inl e), k3.stays fun k e hlt => ?_, k4, ho⟩
    obtain ⟨cs, hc⟩ := k3.ty k e
    exact k1.bk.other j2 hc (by simp [EP]) (by simp [EP])
  have h44 : ∀ (W : World) (g cap : Nat), Hid (S2 w b r c s v sx xs ls d l o2 l1 l3 g cap W) → Calls Tryd.prog 44 #[.pointer (some ⟨r, 0, none⟩), .slice l1 l.length l3] W fun e w2 => e = .returned (.int .i64 C) ∧ w2.cell? ⟨w.heap.size, 2, none⟩ = some (.slice l1 l.length l3) ∧ Hid (Gz w (Opr b r v sx) b r c v sx ls.length s M g l.length w2 ∧ R EP w2 (.slice (some ⟨g, 0, none⟩) (l.length + 2) cap) (l ++ marks)) := by
    intro W g cap hW
    obtain ⟨v', k1, k2, k3, k4, k5, k6, k7⟩ := hW.out
    have hold : ∀ i (hi : i < xs.length), (sv xs[i]).ownBlock ≠ some g := fun i hi e => by
      obtain ⟨cs, hc⟩ := (h.rb.lists i hi).ty g e
      have := heap_lt hc
      omega
    refine (rsend_any W r c sx xs ls d k3 _ l (hl W k4) (by omega) hx0).mono ?_
    rintro e w2 ⟨rfl, j1, j2⟩
    rw [hC] at j1 j2 ⊢
    by_cases hz : C = 0
    · obtain ⟨sx', x, i1, i2, i3, i4⟩ := j2 hz
      have ho := (k3.other i2 k7 (by decide) (by decide)).trans k7
      have hR := k5.stays fun k e hlt => by
        obtain ⟨cs, hc⟩ := k5.ty k e
        exact k3.other i2 hc (by simp [EP]) (by simp [EP])
      have hgW : g < W.heap.size := by
        obtain ⟨cur, hc, _⟩ := k5.room
        exact heap_lt hc
      obtain ⟨cur, hc1, hc2⟩ := R.room hR
      rw [List.length_append] at hc2
      rw [sendL_same c s ls d h.rb.done l (by rw [hsame, hz])] at k1
      refine ⟨rfl, cell_blk ho 2, ⟨v', sx', xs ++ [x], ls ++ [l], d, ⟨k1.keepR k3 i2, i1, ?_⟩, k4.trans i2 (fun _ _ e => e) (fun _ _ e => .inr e), ?_, k2, fun k e => (i3 k e).imp id fun hh => Nat.le_trans k4.size hh, by simp, fun i hi => ?_, by omega, cur, hc1, by omega⟩, hR⟩
      · rw [List.take_append_of_le_length h.rb.done]
        exact h.eq
      · rw [← hM, if_pos hz]
        simp
      · by_cases hix : i < xs.length
        · have e1 : (xs ++ [x])[i] = xs[i] := List.getElem_append_left hix
          rw [e1]
          exact hold i hix
        · have hi2 : i = xs.length := by rw [List.length_append] at hi; simp at hi; omega
          subst hi2
          have e1 : (xs ++ [x])[xs.length] = x := by simp
          rw [e1]
          intro e
          have := i4 g e
          omega
    · have hb := j1 hz
      have ho := (hb.block _ (heap_lt k7)).trans k7
      have hR := k5.below hb
      obtain ⟨cur, hc1, hc2⟩ := R.room hR
      rw [List.length_append] at hc2
      rw [sendL_none c s _ l (by rw [hsame]; exact hz)] at k1
      exact ⟨rfl, cell_blk ho 2, ⟨v', sx, xs, ls, d, ⟨k1.below hb, k3.below hb, h.eq⟩, k4.thenBelow hb, by rw [← hM, if_neg hz], k2, fun k e => .inl e, by omega, hold, by omega, cur, hc1, by omega⟩, hR⟩
  have h31 : ∀ (W : World) (g cap : Nat), Hid (Gz w (Opr b r v sx) b r c v sx ls.length s M g l.length W ∧ R EP W (.slice (some ⟨g, 0, none⟩) (l.length + 2) cap) (l ++ marks)) → Calls Tryd.prog 31 #[.slice (some ⟨g, 0, none⟩) l.length cap, .slice l1 l.length l3] W fun e w2 => e = .returned (.bool true) ∧ Hid (Gz w (Opr b r v sx) b r c v sx ls.length s M g l.length w2) := by
    intro W g cap hW
    obtain ⟨k1, k2⟩ := hW.out
    obtain ⟨_, _, _, _, _, _, hks, _⟩ := id k1
    refine (kept_any W g cap _ l k2 (hl W hks)).mono ?_
    rintro e w2 ⟨rfl, hb⟩
    exact ⟨rfl, k1.below hb⟩
  have hPz : ∀ (W : World) (g : Nat), Hid (Gz w (Opr b r v sx) b r c v sx ls.length s M g l.length W) → Hid (Pz w (Opr b r v sx) b r c v sx ls.length s M W) := fun W g hW => hW.out.pz
  obtain ⟨n, hn⟩ : ∃ n, ls.length = n := ⟨_, rfl⟩
  obtain ⟨q, hq⟩ : ∃ q, l.length = q := ⟨_, rfl⟩
  have hq2 : (q + 2) * 16 ≤ 140737488355328 := by omega
  have h14 := fun W => @Pz.call14 w W (Opr b r v sx) b r c s v sx n M
  have h34 := fun W h => @Pz.call34 w W (Opr b r v sx) b r c s v sx n M h hT
  have h15 := fun W => @Pz.call15 w W (Opr b r v sx) b r c s v sx n M
  have h46 := fun W => @Pz.call46 w W (Opr b r v sx) b r c s v sx n M
  rw [hn] at h44 h31 hPz ⊢
  rw [hq] at h22 h12 h44 h31 hPz ⊢
  obtain ⟨s1, s2, s3, s4, s5, s6⟩ := s
  simp only [St.a] at h14 h34
  clear hM h hT hn hq hl hn0 hx0 hC hsame
  go_enter Tryd.func33, Tryd.ntmps33
  go_wp2_with (first | (go_at_call 22; refine h22.mono ?_; clear h22; rintro e w5 ⟨g, cap, rfl, H5⟩) | (go_at_call 12; refine (h12 _ _ _ H5).mono ?_; clear h12 H5; rintro e w6 ⟨rfl, e6, H6⟩) | (go_at_call 44; refine (h44 _ _ _ H6).mono ?_; clear h44 H6; rintro e w7 ⟨rfl, e7, H7⟩) | (go_at_call 31; refine (h31 _ _ _ H7).mono ?_; clear h31 H7; rintro e w8 ⟨rfl, H8⟩))
  clear e6 e7
  go_loopw [10] (fun i wr => ∃ k : Nat, k ≤ q ∧ i = .int .i64 (k : Int) ∧ Hid (Gz w (Opr b r v sx) b r c v sx n (St.mk s1 s2 s3 s4 s5 s6) M g q wr)) (fun i _ => q - (intOf i).toNat)
  case atStart => exact ⟨0, Nat.zero_le _, rfl, H8.out⟩
  case round =>
    obtain ⟨k, hk, rfl, HP⟩ := hrel
    clear H8
    by_cases hlt : k < q
    · have hlti : (k : Int) < (q : Int) := by omega
      obtain ⟨⟨y0, c0⟩, f0⟩ := HP.out.cell (k * 2) (by omega)
      obtain ⟨⟨y1, c1⟩, f1⟩ := HP.out.cell (k * 2 + 1) (by omega)
      clear h14 h34 h15 h46 hPz
      go_wp2_with fail
      exact ⟨⟨k + 1, by omega, by simp, (HP.out.set _ _).set _ _⟩, by simp [intOf]; omega⟩
    · obtain rfl : k = q := by omega
      have H0 := hPz _ _ HP
      clear hPz HP
      go_wp2_with (first | (go_at_call 14; refine (h14 _ H0).mono ?_; clear h14 H0; rintro e w1 ⟨rfl, H1⟩) | (go_at_call 34; refine (h34 _ H1).mono ?_; clear h34 H1; rintro e w2 ⟨rfl, H2⟩) | (go_at_call 15; refine (h15 _ H2).mono ?_; clear h15 H2; rintro e w3 ⟨rfl, H3⟩) | (go_at_call 46; refine (h46 _ H3).mono ?_; clear h46 H3; rintro e w4 ⟨rfl, H4⟩))
      go_ret
      exact ⟨rfl, _, _, H4.out⟩

/-- plays, whatever the op -/
theorem plays_any (w : World) (b r : Nat) (c : Bool) (s : St) (v : Value) (sx : SV) (xs : List SV) (ls : List (List (Int × Int))) (d : Nat) (h : Pr w b r c s v sx xs ls d) (hT : ∀ W, Ks (Opr b r v sx) w W → Top W) (o1 : Int) (o2 : Bool) (l1 : Option Addr) (l2 l3 : Nat) (l : List (Int × Int)) (hl : ∀ W, Ks (Opr b r v sx) w W → In EP W (.slice l1 l2 l3) l) (hn0 : (l.length + 2) * 16 ≤ 140737488355328) (hx0 : (xs.length + 1) * 24 ≤ 140737488355328) :
    Calls Tryd.prog 33 #[.pointer (some ⟨b, 0, none⟩), .pointer (some ⟨r, 0, none⟩), .agg #[.int .i64 o1, .bool o2, .slice l1 l2 l3]] w fun e w' => e = .returned (.bool true) ∧ Pend w b r c v sx ls.length w' := by
  by_cases h1 : o1 = 1
  · subst h1
    exact plays_send w b r c s v sx xs ls d h hT o2 l1 l2 l3 l hl hn0 hx0
  · by_cases h2 : o1 = 2
    · subst h2
      exact plays_ack w b r c s v sx xs ls d h hT o2 l1 l2 l3
    · exact plays_other w b r c s v sx xs ls d h hT o1 o2 l1 l2 l3 h1 h2
end Go.Proofs.YtfkimdgbkfogcaaDoor
