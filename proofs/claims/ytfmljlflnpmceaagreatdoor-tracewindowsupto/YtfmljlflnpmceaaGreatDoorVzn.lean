import Derived.Test.YtfmljlflnpmceaaGreatDoorVzm
/- What the document gives: the first of it. -/
namespace Go.Proofs.YtfmljlflnpmceaaGreatDoor
open Go.RowKit
set_option linter.unusedVariables false
set_option linter.unusedSimpArgs false
def frm (ty fl st : Int) : Fm.Fr := ⟨ty, fl, st, ⟨#[]⟩, 0, 0, false, 0, 0, 0⟩
def ecn (s : Bool) (ty fl st : Int) : Ec := ⟨⟨s, frm ty fl st, [], some 9⟩, none, 0, 0⟩
def opE : List Ec := [ecn true 4 0 0, ecn false 4 0 0, ecn true 4 1 0, ecn false 4 1 0]
def rqE : List Ec := [ecn true 1 5 1, ecn false 1 5 1]
def akE : List Ec := [ecn false 4 1 0]
set_option maxRecDepth 100000 in
theorem first_ok : checkS ((opE ++ rqE).map (·.e)) true = (-1, 0) := by kernel_rfl
set_option maxRecDepth 100000 in
theorem first_no : checkS (((opE ++ rqE) ++ akE).map (·.e)) true = (6, 1) := by kernel_rfl
theorem right_400 : Fm.Right (frm 4 0 0) [] := ⟨by decide, by decide, by decide, by decide, by kernel_rfl, by decide, by decide, by rw [if_neg (by decide)]; rfl, by
  have e : Fm.kd (frm 4 0 0).ty (frm 4 0 0).fl = (118, 6, 98, 99) := by kernel_rfl
  rw [e]
  unfold Fm.BodyR
  simp [frm]⟩
theorem right_400_e (s : Bool) (w : World) : EOk w (ecn s 4 0 0).e (ecn s 4 0 0).p := ⟨by unfold I64; cases s <;> decide, by unfold I64; cases s <;> decide, by cases s <;> decide, .inl ⟨none, 0, rfl, rfl⟩, .inl ⟨rfl, rfl⟩, by
  have e : (Fm.asmB (ecn s 4 0 0).e.f (ecn s 4 0 0).e.ps).size = 9 := by kernel_rfl
  rw [e]
  decide, .inl ⟨right_400, by
  have e : (Fm.asmB (ecn s 4 0 0).e.f (ecn s 4 0 0).e.ps).size = 9 := by kernel_rfl
  rw [e]
  rfl⟩⟩
theorem right_410 : Fm.Right (frm 4 1 0) [] := ⟨by decide, by decide, by decide, by decide, by kernel_rfl, by decide, by decide, by rw [if_neg (by decide)]; rfl, by
  have e : Fm.kd (frm 4 1 0).ty (frm 4 1 0).fl = (117, 0, 98, 99) := by kernel_rfl
  rw [e]
  unfold Fm.BodyR
  simp [frm]⟩
theorem right_410_e (s : Bool) (w : World) : EOk w (ecn s 4 1 0).e (ecn s 4 1 0).p := ⟨by unfold I64; cases s <;> decide, by unfold I64; cases s <;> decide, by cases s <;> decide, .inl ⟨none, 0, rfl, rfl⟩, .inl ⟨rfl, rfl⟩, by
  have e : (Fm.asmB (ecn s 4 1 0).e.f (ecn s 4 1 0).e.ps).size = 9 := by kernel_rfl
  rw [e]
  decide, .inl ⟨right_410, by
  have e : (Fm.asmB (ecn s 4 1 0).e.f (ecn s 4 1 0).e.ps).size = 9 := by kernel_rfl
  rw [e]
  rfl⟩⟩
theorem right_151 : Fm.Right (frm 1 5 1) [] := ⟨by decide, by decide, by decide, by decide, by kernel_rfl, by decide, by decide, by rw [if_neg (by decide)]; rfl, by
  have e : Fm.kd (frm 1 5 1).ty (frm 1 5 1).fl = (116, 0, 103, 104) := by kernel_rfl
  rw [e]
  unfold Fm.BodyR
  simp [frm]⟩
theorem right_151_e (s : Bool) (w : World) : EOk w (ecn s 1 5 1).e (ecn s 1 5 1).p := ⟨by unfold I64; cases s <;> decide, by unfold I64; cases s <;> decide, by cases s <;> decide, .inl ⟨none, 0, rfl, rfl⟩, .inl ⟨rfl, rfl⟩, by
  have e : (Fm.asmB (ecn s 1 5 1).e.f (ecn s 1 5 1).e.ps).size = 9 := by kernel_rfl
  rw [e]
  decide, .inl ⟨right_151, by
  have e : (Fm.asmB (ecn s 1 5 1).e.f (ecn s 1 5 1).e.ps).size = 9 := by kernel_rfl
  rw [e]
  rfl⟩⟩
theorem first_e (w : World) : ∀ x ∈ (opE ++ rqE) ++ akE, EOk w x.e x.p := by
  intro x hx
  simp only [opE, rqE, akE, List.cons_append, List.nil_append, List.mem_cons, List.not_mem_nil, or_false] at hx
  rcases hx with rfl | rfl | rfl | rfl | rfl | rfl | rfl
  · exact right_400_e _ w
  · exact right_400_e _ w
  · exact right_410_e _ w
  · exact right_410_e _ w
  · exact right_151_e _ w
  · exact right_151_e _ w
  · exact right_410_e _ w
set_option maxRecDepth 100000 in
set_option maxHeartbeats 8000000 in
theorem opening_any (w : World) : Calls Tryz.prog 15 #[] w fun r w' => r = .returned (.slice (some ⟨w.heap.size, 0, none⟩) 4 4) ∧ w' = w.alloc (.cells #[.bool true, .int .i64 4, .int .i64 0, .int .i64 0, .string ⟨#[]⟩, .int .i64 0, .int .i64 0, .bool false, .int .i64 0, .int .i64 0, .int .i64 0, .slice none 0 0, .bool false, .int .i64 4, .int .i64 0, .int .i64 0, .string ⟨#[]⟩, .int .i64 0, .int .i64 0, .bool false, .int .i64 0, .int .i64 0, .int .i64 0, .slice none 0 0, .bool true, .int .i64 4, .int .i64 1, .int .i64 0, .string ⟨#[]⟩, .int .i64 0, .int .i64 0, .bool false, .int .i64 0, .int .i64 0, .int .i64 0, .slice none 0 0, .bool false, .int .i64 4, .int .i64 1, .int .i64 0, .string ⟨#[]⟩, .int .i64 0, .int .i64 0, .bool false, .int .i64 0, .int .i64 0, .int .i64 0, .slice none 0 0] 33) := by
  go_enter Tryz.func15, Tryz.ntmps15
  go_wp2_with fail
  go_ret
  exact ⟨rfl, rfl⟩
theorem opening_R (w : World) : R EE (w.alloc (.cells #[.bool true, .int .i64 4, .int .i64 0, .int .i64 0, .string ⟨#[]⟩, .int .i64 0, .int .i64 0, .bool false, .int .i64 0, .int .i64 0, .int .i64 0, .slice none 0 0, .bool false, .int .i64 4, .int .i64 0, .int .i64 0, .string ⟨#[]⟩, .int .i64 0, .int .i64 0, .bool false, .int .i64 0, .int .i64 0, .int .i64 0, .slice none 0 0, .bool true, .int .i64 4, .int .i64 1, .int .i64 0, .string ⟨#[]⟩, .int .i64 0, .int .i64 0, .bool false, .int .i64 0, .int .i64 0, .int .i64 0, .slice none 0 0, .bool false, .int .i64 4, .int .i64 1, .int .i64 0, .string ⟨#[]⟩, .int .i64 0, .int .i64 0, .bool false, .int .i64 0, .int .i64 0, .int .i64 0, .slice none 0 0] 33)) (.slice (some ⟨w.heap.size, 0, none⟩) 4 4) opE :=
  ⟨rfl, .inr ⟨_, 4, _, rfl, Nat.zero_le _, by rw [heap_al, if_pos rfl]; rfl, Nat.le_refl _, by unfold maxLen; decide, rfl, rfl⟩⟩
theorem in_two (w : World) (B : Nat) (c : Array Value) (h : w.heap[B]? = some (.cells c 33 (0, 0))) (l : List Ec) (n : Nat) (hn : l.length = n) (hb : n ≤ 9223372036854775807) (hc : c.toList = EE.cs l) : In EE w (.slice (some ⟨B, 0, none⟩) n n) l := by
  refine .inr ⟨_, n, by rw [hn], by omega, hb, fun j u hu => ?_⟩
  rw [Addr.add_lit, cell_blk h, Nat.zero_add, ← Array.getElem?_toList, hc]
  exact hu
set_option maxRecDepth 100000 in
set_option maxHeartbeats 40000000 in
theorem first_any (w : World) (h0 : Std w) (hK : Fm.Kinds w) (hw2 : 2 ≤ w.heap.size) : Calls Tryz.prog 11 #[] w fun r w' => r = .returned (.bool true) ∧ Below w.heap.size w w' := by
  have HC : Hid (∀ (xs : List Ec) (v : Value) (V : World) (q : Int × Int), Below w.heap.size w V → In EE V v xs → (∀ x ∈ xs, EOk V x.e x.p) → xs.length ≤ 1099511627776 → checkS (xs.map (·.e)) true = q → Calls Tryz.prog 9 #[v, .bool true] V fun r w' => r = .returned (.tuple #[.int .i64 q.1, .int .i64 q.2]) ∧ Below V.heap.size V w') := fun xs v V q hV hI hE hl hq => by
    have := check_any xs v true V hI hE (h0.below hV) (hK.of_eq (hV.block 1 (by omega))) (Nat.le_trans hw2 hV.size) hl
    rw [hq] at this
    exact this
  have HO : Hid (∀ V, Calls Tryz.prog 15 #[] V fun r w' => r = .returned (.slice (some ⟨V.heap.size, 0, none⟩) 4 4) ∧ w' = V.alloc (.cells #[.bool true, .int .i64 4, .int .i64 0, .int .i64 0, .string ⟨#[]⟩, .int .i64 0, .int .i64 0, .bool false, .int .i64 0, .int .i64 0, .int .i64 0, .slice none 0 0, .bool false, .int .i64 4, .int .i64 0, .int .i64 0, .string ⟨#[]⟩, .int .i64 0, .int .i64 0, .bool false, .int .i64 0, .int .i64 0, .int .i64 0, .slice none 0 0, .bool true, .int .i64 4, .int .i64 1, .int .i64 0, .string ⟨#[]⟩, .int .i64 0, .int .i64 0, .bool false, .int .i64 0, .int .i64 0, .int .i64 0, .slice none 0 0, .bool false, .int .i64 4, .int .i64 1, .int .i64 0, .string ⟨#[]⟩, .int .i64 0, .int .i64 0, .bool false, .int .i64 0, .int .i64 0, .int .i64 0, .slice none 0 0] 33)) := fun V => opening_any V
  clear h0 hK hw2
  obtain ⟨W1, hW1⟩ : ∃ V, w.alloc (.cells #[.bool true, .int .i64 4, .int .i64 0, .int .i64 0, .string ⟨#[]⟩, .int .i64 0, .int .i64 0, .bool false, .int .i64 0, .int .i64 0, .int .i64 0, .slice none 0 0, .bool false, .int .i64 4, .int .i64 0, .int .i64 0, .string ⟨#[]⟩, .int .i64 0, .int .i64 0, .bool false, .int .i64 0, .int .i64 0, .int .i64 0, .slice none 0 0, .bool true, .int .i64 4, .int .i64 1, .int .i64 0, .string ⟨#[]⟩, .int .i64 0, .int .i64 0, .bool false, .int .i64 0, .int .i64 0, .int .i64 0, .slice none 0 0, .bool false, .int .i64 4, .int .i64 1, .int .i64 0, .string ⟨#[]⟩, .int .i64 0, .int .i64 0, .bool false, .int .i64 0, .int .i64 0, .int .i64 0, .slice none 0 0] 33) = V := ⟨_, rfl⟩
  obtain ⟨q1, hq1⟩ : ∃ q, w.heap.size = q := ⟨_, rfl⟩
  have b1 : Below w.heap.size w W1 := by rw [← hW1]; exact bel1 _ _
  have r1 := opening_R w
  rw [hW1, hq1] at r1
  obtain ⟨W2, hW2⟩ : ∃ V, W1.alloc (.cells #[.bool true, .int .i64 1, .int .i64 5, .int .i64 1, .string ⟨#[]⟩, .int .i64 0, .int .i64 0, .bool false, .int .i64 0, .int .i64 0, .int .i64 0, .slice none 0 0, .bool false, .int .i64 1, .int .i64 5, .int .i64 1, .string ⟨#[]⟩, .int .i64 0, .int .i64 0, .bool false, .int .i64 0, .int .i64 0, .int .i64 0, .slice none 0 0] 33) = V := ⟨_, rfl⟩
  obtain ⟨q2, hq2⟩ : ∃ q, W1.heap.size = q := ⟨_, rfl⟩
  have b2 : Below W1.heap.size W1 W2 := by rw [← hW2]; exact bel1 _ _
  have g2 : W2.heap[q2]? = some (.cells #[.bool true, .int .i64 1, .int .i64 5, .int .i64 1, .string ⟨#[]⟩, .int .i64 0, .int .i64 0, .bool false, .int .i64 0, .int .i64 0, .int .i64 0, .slice none 0 0, .bool false, .int .i64 1, .int .i64 5, .int .i64 1, .string ⟨#[]⟩, .int .i64 0, .int .i64 0, .bool false, .int .i64 0, .int .i64 0, .int .i64 0, .slice none 0 0] 33 (0, 0)) := by rw [← hW2, ← hq2, heap_al, if_pos rfl]
  obtain ⟨ob, oc, W3, hrun, hR3, hG3⟩ := app okEE W2 _ opE (r1.below b2) (.slice (some ⟨q2, 0, none⟩) 2 2) rqE (in_two _ q2 _ g2 rqE 2 rfl (by decide) rfl) (by simp only [EE]; decide)
  have e1 : opE.length + rqE.length = 6 := rfl
  rw [e1] at hrun hR3 hG3
  have b3 : Below w.heap.size w W3 := b1.trans ((b2.mono b1.size).trans (hG3.belowB (Nat.le_trans b1.size b2.size) (fun j hj => by simp [Value.ownBlock] at hj; omega)))
  have HB3 : Hid (Below w.heap.size w W3 ∧ R EE W3 (.slice ob 6 oc) (opE ++ rqE) ∧ ∀ j, (Value.slice ob 6 oc).ownBlock = some j → w.heap.size ≤ j) := ⟨b3, hR3, fun j hj => by
    rcases hG3.own j hj with e | e
    · simp [Value.ownBlock] at e; omega
    · have := b1.size; have := b2.size; omega⟩
  simp only [EE] at hrun
  have HRUN := hid hrun
  clear b1 r1 b2 g2 hrun hR3 hG3 b3
  go_enter Tryz.func11, Tryz.ntmps11
  go_wp2_with fail
  go_at_call 15
  refine (HO.out _).mono ?_
  rintro e V ⟨rfl, rfl⟩
  rw [hW1, hq1]
  go_upto_region 2 with (at_builtin; refine Lib.wpList_append_run _ rfl _ _ _ _ rfl _ _ rfl rfl _ _ HRUN.out ?_)
  clear hW1 hq1 hW2 hq2 HO HRUN
  go_wp2_with fail
  go_at_call 9
  refine (HC.out (opE ++ rqE) _ _ (-1, 0) HB3.out.1 HB3.out.2.1.isIn (fun x hx => first_e _ x (List.mem_append_left _ hx)) (by decide) first_ok).mono ?_
  rintro e V4 ⟨rfl, hV4⟩
  have b4 := HB3.out.1.trans (hV4.mono HB3.out.1.size)
  obtain ⟨W5, hW5⟩ : ∃ V, V4.alloc (.cells #[.bool false, .int .i64 4, .int .i64 1, .int .i64 0, .string ⟨#[]⟩, .int .i64 0, .int .i64 0, .bool false, .int .i64 0, .int .i64 0, .int .i64 0, .slice none 0 0] 33) = V := ⟨_, rfl⟩
  obtain ⟨q5, hq5⟩ : ∃ q, V4.heap.size = q := ⟨_, rfl⟩
  have b5 : Below V4.heap.size V4 W5 := by rw [← hW5]; exact bel1 _ _
  have g5 : W5.heap[q5]? = some (.cells #[.bool false, .int .i64 4, .int .i64 1, .int .i64 0, .string ⟨#[]⟩, .int .i64 0, .int .i64 0, .bool false, .int .i64 0, .int .i64 0, .int .i64 0, .slice none 0 0] 33 (0, 0)) := by rw [← hW5, ← hq5, heap_al, if_pos rfl]
  obtain ⟨nb, nc, W6, hrun, hR6, hG6⟩ := app okEE W5 _ (opE ++ rqE) ((HB3.out.2.1.below hV4).below b5) (.slice (some ⟨q5, 0, none⟩) 1 1) akE (in_two _ q5 _ g5 akE 1 rfl (by decide) rfl) (by simp only [EE]; decide)
  have e2 : (opE ++ rqE).length + akE.length = 7 := rfl
  rw [e2] at hrun hR6 hG6
  have HB6 : Hid (Below w.heap.size w W6 ∧ R EE W6 (.slice nb 7 nc) ((opE ++ rqE) ++ akE)) := ⟨b4.trans ((b5.mono b4.size).trans (hG6.belowB (Nat.le_trans b4.size b5.size) HB3.out.2.2)), hR6⟩
  simp only [EE] at hrun
  have HRUN := hid hrun
  clear hV4 b4 b5 g5 hrun hR6 hG6 HB3
  go_upto_region 3 with fail
  go_wp2_with (at_builtin; refine Lib.wpList_append_run _ rfl _ _ _ _ rfl _ _ rfl rfl _ _ HRUN.out ?_)
  go_at_call 9
  refine (HC.out ((opE ++ rqE) ++ akE) _ _ (6, 1) HB6.out.1 HB6.out.2.isIn (first_e _) (by decide) first_no).mono ?_
  rintro e V7 ⟨rfl, hV7⟩
  have HE := hid (HB6.out.1.trans (hV7.mono HB6.out.1.size))
  clear hV7 HB6 HRUN hW5 hq5
  go_wp2_with fail
  go_ret
  exact ⟨rfl, HE.out⟩
end Go.Proofs.YtfmljlflnpmceaaGreatDoor
/- Plain facts of Check; a log's entries, handed on. -/
namespace Go.Proofs.YtfmljlflnpmceaaGreatDoor
open Go.RowKit
set_option linter.unusedVariables false
set_option linter.unusedSimpArgs false
/-- an entry, whatever its memory -/
structure Eo (e : Et) : Prop where
  st : I64 e.f.st
  la : I64 e.f.last
  dz : e.f.data.size ≤ 140737488355328
  pl : e.ps.length ≤ 1099511627776
  sz : (Fm.asmB e.f e.ps).size * 3 + 2000 ≤ 140737488355328
  fn : Fn e.f e.ps e.n
theorem pin_of_in {w : World} {v : Value} {l : List (Int × Int)} (h : In EP w v l) : Fm.PIn w v l := by
  by_cases h0 : l = []
  · subst h0
    obtain ⟨b, c, e, _, _⟩ := h.slice
    exact .inl ⟨b, c, e, rfl⟩
  · have hl : 0 < l.length := List.length_pos_iff.2 h0
    obtain ⟨B, off, cap, h1, h2, _⟩ := h.par 0 hl
    obtain ⟨b, c, e, hc1, hc2⟩ := h.slice
    refine .inr ⟨B, off, cap, h1, ?_, ?_, h2, fun k hk => ?_⟩
    · rw [e] at h1; injection h1 with _ _ e3; omega
    · rw [e] at h1; injection h1 with _ _ e3; omega
    · obtain ⟨B', off', cap', h1', _, d1, d2⟩ := h.par k hk
      rw [h1] at h1'
      injection h1' with e1 _ _
      injection e1 with e1
      injection e1 with e4 e5
      subst e4 e5
      exact ⟨d1, d2⟩
theorem Eo.ok {e : Et} {p : Value} {w : World} (h : Eo e) (hp : In EP w p e.ps) : EOk w e p := ⟨h.st, h.la, h.dz, pin_of_in hp, hp, h.sz, h.fn⟩
theorem In.cut {w : World} {b : Option Addr} {n c : Nat} {l : List Ec} (h : In EE w (.slice b n c) l) (k : Nat) (hk : k ≤ n) : In EE w (.slice b k c) (l.take k) := by
  have hl : l.length = n := by
    obtain ⟨_, _, e, _⟩ := h.slice
    injection e with _ e2 _
    exact e2.symm
  rcases h with ⟨e, rfl⟩ | ⟨a, cap, e, h1, h2, h3⟩
  · injection e with e1 e2 e3
    subst e1 e2 e3
    have : k = 0 := by omega
    subst this
    exact .inl ⟨rfl, rfl⟩
  · injection e with e1 e2 e3
    subst e1 e3
    have hk2 : (l.take k).length = k := by simp; omega
    refine .inr ⟨a, c, by rw [hk2], by omega, h2, fun j u hu => h3 j u ?_⟩
    have : EE.cs l = EE.cs (l.take k) ++ EE.cs (l.drop k) := by rw [← El.cs_append, List.take_append_drop]
    rw [this]
    rw [List.getElem?_append_left (List.getElem?_eq_some_iff.1 hu).1]
    exact hu
end Go.Proofs.YtfmljlflnpmceaaGreatDoor
/- TraceFront, walked. -/
namespace Go.Proofs.YtfmljlflnpmceaaGreatDoor
open Go.RowKit
set_option linter.unusedVariables false
set_option linter.unusedSimpArgs false
end Go.Proofs.YtfmljlflnpmceaaGreatDoor
