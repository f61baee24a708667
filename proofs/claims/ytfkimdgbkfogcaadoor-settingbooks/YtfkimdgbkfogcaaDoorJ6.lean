/- plays: what holds between its calls; an op that is no call, and Ack. -/
import Derived.Test.YtfkimdgbkfogcaaDoorJ5
import Derived.Test.YtfkimdgbkfogcaaDoorH2
namespace Go.Proofs.YtfkimdgbkfogcaaDoor
open Go.RowKit
set_option linter.unusedVariables false
set_option linter.unusedSimpArgs false

theorem Ks.thenBelow {A : Nat → Prop} {w W W' : World} (h : Ks A w W) (hb : Below W.heap.size W W') : Ks A w W' :=
  h.trans (Ks.of_below (A := A) hb) (fun _ _ e => e) (fun _ _ e => e)

/-- What holds between plays' calls, once both books have played: the pair holds the set s and m that wait; nothing but A was written. -/
def Pz (w : World) (A : Nat → Prop) (b r : Nat) (c : Bool) (v : Value) (sx : SV) (n : Nat) (s : St) (m : Nat) (W : World) : Prop := ∃ v' sx' xs' ls' d', Pr W b r c s v' sx' xs' ls' d' ∧ Ks A w W ∧ ls'.length - d' = m ∧ (∀ k, v'.ownBlock = some k → v.ownBlock = some k ∨ w.heap.size ≤ k) ∧ (∀ k, (sv sx').ownBlock = some k → (sv sx).ownBlock = some k ∨ w.heap.size ≤ k) ∧ ls'.length ≤ n + 1
section
variable {w W W' : World} {A : Nat → Prop} {b r : Nat} {c : Bool} {s : St} {v : Value} {sx : SV} {n m : Nat}
theorem Pz.below (h : Pz w A b r c v sx n s m W) (hb : Below W.heap.size W W') : Pz w A b r c v sx n s m W' := by
  obtain ⟨v', sx', xs', ls', d', h1, h2, h3⟩ := h
  exact ⟨v', sx', xs', ls', d', h1.below hb, h2.thenBelow hb, h3⟩
theorem Pz.call14 (h : Hid (Pz w A b r c v sx n s m W)) : Calls Tryd.prog 14 #[.pointer (some ⟨b, 0, none⟩)] W fun e w' => e = .returned (.agg s.a) ∧ Hid (Pz w A b r c v sx n s m w') := by
  obtain ⟨v', sx', xs', ls', d', h1, h2, h3⟩ := h.out
  refine (acked_any W b c s v' _ h1.bk).mono ?_
  rintro e w' ⟨rfl, hb⟩
  exact ⟨rfl, h.out.below hb⟩
theorem Pz.call34 (h : Hid (Pz w A b r c v sx n s m W)) (hT : ∀ W, Ks A w W → Top W) : Calls Tryd.prog 34 #[.pointer (some ⟨r, 0, none⟩)] W fun e w' => e = .returned (.agg s.a) ∧ Hid (Pz w A b r c v sx n s m w') := by
  obtain ⟨v', sx', xs', ls', d', h1, h2, h3⟩ := h.out
  refine (racked_any W r c sx' xs' ls' d' h1.rb (hT W h2)).mono ?_
  rintro e w' ⟨rfl, hb⟩
  exact ⟨by rw [h1.eq], h.out.below hb⟩
theorem Pz.call15 (h : Hid (Pz w A b r c v sx n s m W)) : Calls Tryd.prog 15 #[.pointer (some ⟨b, 0, none⟩)] W fun e w' => e = .returned (.int .i64 (m : Int)) ∧ Hid (Pz w A b r c v sx n s m w') := by
  obtain ⟨v', sx', xs', ls', d', h1, h2, h3, h4⟩ := h.out
  refine (waiting_any W b c s v' _ h1.bk).mono ?_
  rintro e w' ⟨rfl, rfl⟩
  exact ⟨by rw [chain_length, List.length_drop, h3], h.out⟩
theorem Pz.call46 (h : Hid (Pz w A b r c v sx n s m W)) : Calls Tryd.prog 46 #[.pointer (some ⟨r, 0, none⟩)] W fun e w' => e = .returned (.int .i64 (m : Int)) ∧ Hid (Pz w A b r c v sx n s m w') := by
  obtain ⟨v', sx', xs', ls', d', h1, h2, h3, h4⟩ := h.out
  refine (rwaiting_any W r c sx' xs' ls' d' h1.rb).mono ?_
  rintro e w' ⟨rfl, hb⟩
  exact ⟨by rw [h3], h.out.below hb⟩
end

/-- What plays leaves behind. -/
def Pend (w : World) (b r : Nat) (c : Bool) (v : Value) (sx : SV) (n : Nat) (W : World) : Prop := ∃ s' m', Pz w (Opr b r v sx) b r c v sx n s' m' W

set_option maxRecDepth 100000 in
set_option maxHeartbeats 4000000 in
theorem plays_other (w : World) (b r : Nat) (c : Bool) (s : St) (v : Value) (sx : SV) (xs : List SV) (ls : List (List (Int × Int))) (d : Nat) (h : Pr w b r c s v sx xs ls d) (hT : ∀ W, Ks (Opr b r v sx) w W → Top W) (o1 : Int) (o2 : Bool) (l1 : Option Addr) (l2 l3 : Nat) (h1 : o1 ≠ 1) (h2 : o1 ≠ 2) :
    Calls Tryd.prog 33 #[.pointer (some ⟨b, 0, none⟩), .pointer (some ⟨r, 0, none⟩), .agg #[.int .i64 o1, .bool o2, .slice l1 l2 l3]] w fun e w' => e = .returned (.bool true) ∧ Pend w b r c v sx ls.length w' := by
  obtain ⟨m, hm⟩ : ∃ m, ls.length - d = m := ⟨_, rfl⟩
  obtain ⟨n, hn⟩ : ∃ n, ls.length = n := ⟨_, rfl⟩
  have hP : Pz w (Opr b r v sx) b r c v sx n s m w := ⟨v, sx, xs, ls, d, h, Ks.refl _ _, hm, fun k e => .inl e, fun k e => .inl e, by omega⟩
  have H0 : Hid (Pz w (Opr b r v sx) b r c v sx n s m (w.alloc (.cells #[.int .i64 o1, .bool o2, .slice l1 l2 l3] 32))) := hP.below (bel1 _ _)
  have h14 := fun W => @Pz.call14 w W (Opr b r v sx) b r c s v sx n m
  have h34 := fun W h => @Pz.call34 w W (Opr b r v sx) b r c s v sx n m h hT
  have h15 := fun W => @Pz.call15 w W (Opr b r v sx) b r c s v sx n m
  have h46 := fun W => @Pz.call46 w W (Opr b r v sx) b r c s v sx n m
  rw [hn]
  obtain ⟨s1, s2, s3, s4, s5, s6⟩ := s
  simp only [St.a] at h14 h34
  clear hm h hP hT hn
  go_enter Tryd.func33, Tryd.ntmps33
  go_wp2_with (first | (go_at_call 14; refine (h14 _ H0).mono ?_; clear h14 H0; rintro e w1 ⟨rfl, H1⟩) | (go_at_call 34; refine (h34 _ H1).mono ?_; clear h34 H1; rintro e w2 ⟨rfl, H2⟩) | (go_at_call 15; refine (h15 _ H2).mono ?_; clear h15 H2; rintro e w3 ⟨rfl, H3⟩) | (go_at_call 46; refine (h46 _ H3).mono ?_; clear h46 H3; rintro e w4 ⟨rfl, H4⟩))
  go_ret
  exact ⟨rfl, _, _, H4.out⟩

/-- after the program's Ack -/
def Ma (w : World) (A : Nat → Prop) (b r : Nat) (c : Bool) (v : Value) (sx : SV) (xs : List SV) (ls : List (List (Int × Int))) (d : Nat) (s' : St) (d' : Nat) (W : World) : Prop := ∃ v', Bk W b c s' v' (chain c s' (ls.drop d')) ∧ v'.ownBlock = v.ownBlock ∧ Rb W r c sx xs ls d ∧ Ks A w W

set_option maxRecDepth 100000 in
set_option maxHeartbeats 4000000 in
theorem plays_ack' (w : World) (b r : Nat) (c : Bool) (s : St) (v : Value) (sx : SV) (xs : List SV) (ls : List (List (Int × Int))) (d : Nat) (h : Pr w b r c s v sx xs ls d) (hT : ∀ W, Ks (Opr b r v sx) w W → Top W) (o2 : Bool) (l1 : Option Addr) (l2 l3 : Nat) (X s' : St) (B : Bool) (d' : Nat)
    (hA : ∀ W, Pr W b r c s v sx xs ls d → Ks (Opr b r v sx) w W → Calls Tryd.prog 13 #[.pointer (some ⟨b, 0, none⟩)] W fun e w1 => e = .returned (.tuple #[.agg X.a, .bool B]) ∧ Ma w (Opr b r v sx) b r c v sx xs ls d s' d' w1)
    (hR : ∀ W, Ma w (Opr b r v sx) b r c v sx xs ls d s' d' W → Calls Tryd.prog 45 #[.pointer (some ⟨r, 0, none⟩)] W fun e w1 => e = .returned (.tuple #[.agg X.a, .bool B]) ∧ Pz w (Opr b r v sx) b r c v sx ls.length s' (ls.length - d') w1 ∧ (∀ (k : Nat) (cs : Array Value), W.heap[k]? = some (.cells cs 27 (0, 0)) → w1.heap[k]? = W.heap[k]?)) :
    Calls Tryd.prog 33 #[.pointer (some ⟨b, 0, none⟩), .pointer (some ⟨r, 0, none⟩), .agg #[.int .i64 2, .bool o2, .slice l1 l2 l3]] w fun e w' => e = .returned (.bool true) ∧ Pend w b r c v sx ls.length w' := by
  have h13 : Calls Tryd.prog 13 #[.pointer (some ⟨b, 0, none⟩)] (w.alloc (.cells #[.int .i64 2, .bool o2, .slice l1 l2 l3] 32)) fun e w1 => e = .returned (.tuple #[.agg X.a, .bool B]) ∧ Hid (Ma w (Opr b r v sx) b r c v sx xs ls d s' d' (w1.alloc (.cells X.a 27)) ∧ (w1.alloc (.cells X.a 27)).heap[w1.heap.size]? = some (.cells X.a 27 (0, 0))) := by
    refine (hA _ (h.below (bel1 _ _)) (Ks.of_below (bel1 _ _))).mono ?_
    rintro e w1 ⟨rfl, v', k1, k2, k3, k4⟩
    have hb := bel1 w1 (.cells X.a 27)
    exact ⟨rfl, ⟨v', k1.below hb, k2, k3.below hb, k4.thenBelow hb⟩, heap_alloc_new _ _⟩
  have h45 : ∀ (W : World) (g : Nat), Hid (Ma w (Opr b r v sx) b r c v sx xs ls d s' d' W ∧ W.heap[g]? = some (.cells X.a 27 (0, 0))) → Calls Tryd.prog 45 #[.pointer (some ⟨r, 0, none⟩)] W fun e w1 => e = .returned (.tuple #[.agg X.a, .bool B]) ∧ C6 (w1.alloc (.cells X.a 27)) g X ∧ Hid (Pz w (Opr b r v sx) b r c v sx ls.length s' (ls.length - d') (w1.alloc (.cells X.a 27))) := by
    intro W g hW
    obtain ⟨k1, k2⟩ := hW.out
    refine (hR W k1).mono ?_
    rintro e w1 ⟨rfl, k3, k4⟩
    have hb := bel1 w1 (.cells X.a 27)
    have k5 := (k4 g _ k2).trans k2
    exact ⟨rfl, c6 ((hb.block _ (heap_lt k5)).trans k5), k3.below hb⟩
  obtain ⟨m, hm⟩ : ∃ m, ls.length - d' = m := ⟨_, rfl⟩
  obtain ⟨n, hn⟩ : ∃ n, ls.length = n := ⟨_, rfl⟩
  rw [hm, hn] at h45
  have h14 := fun W => @Pz.call14 w W (Opr b r v sx) b r c s' v sx n m
  have h34 := fun W h => @Pz.call34 w W (Opr b r v sx) b r c s' v sx n m h hT
  have h15 := fun W => @Pz.call15 w W (Opr b r v sx) b r c s' v sx n m
  have h46 := fun W => @Pz.call46 w W (Opr b r v sx) b r c s' v sx n m
  rw [hn]
  obtain ⟨s1, s2, s3, s4, s5, s6⟩ := s'
  obtain ⟨x1, x2, x3, x4, x5, x6⟩ := X
  simp only [St.a] at h14 h34 h13 h45
  clear hm h hT hn hA hR
  go_enter Tryd.func33, Tryd.ntmps33
  go_wp2_with (first | (go_at_call 13; refine h13.mono ?_; clear h13; rintro e w5 ⟨rfl, H5⟩) | (go_at_call 45; refine (h45 _ _ H5).mono ?_; clear h45 H5; rintro e w6 ⟨rfl, ⟨p0, p1, p2, p3, p4, p5⟩, H0⟩; simp only at p0 p1 p2 p3 p4 p5) | (go_at_call 14; refine (h14 _ H0).mono ?_; clear h14 H0; rintro e w1 ⟨rfl, H1⟩) | (go_at_call 34; refine (h34 _ H1).mono ?_; clear h34 H1; rintro e w2 ⟨rfl, H2⟩) | (go_at_call 15; refine (h15 _ H2).mono ?_; clear h15 H2; rintro e w3 ⟨rfl, H3⟩) | (go_at_call 46; refine (h46 _ H3).mono ?_; clear h46 H3; rintro e w4 ⟨rfl, H4⟩))
  go_ret
  exact ⟨rfl, _, _, H4.out⟩
end Go.Proofs.YtfkimdgbkfogcaaDoor
