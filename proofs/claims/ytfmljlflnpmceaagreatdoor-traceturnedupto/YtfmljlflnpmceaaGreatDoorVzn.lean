import Derived.Test.YtfmljlflnpmceaaGreatDoorVzm
/- What the document gives: the first of it. -/
namespace Go.Proofs.YtfmljlflnpmceaaGreatDoor
open Go.RowKit
set_option linter.unusedVariables false
set_option linter.unusedSimpArgs false
def frm (ty fl st : Int) : Fm.Fr := ⟨ty, fl, st, ⟨#[]⟩, 0, 0, false, 0, 0, 0⟩
def ecn (s : Bool) (ty fl st : Int) : Ec := ⟨⟨s, frm ty fl st, [], some 9⟩, none, 0, 0⟩
def opE : List Ec := [ecn true 4 0 0, ecn false 4 0 0, ecn true 4 1 0, ecn false 4 1 0]
def rqE : List Ec := [ecn true 1 5 1, ecn false 1 5 1]
def akE : List Ec := [ecn false 4 1 0]
set_option maxRecDepth 100000 in
theorem first_ok : checkS ((opE ++ rqE).map (·.e)) true = (-1, 0) := by kernel_rfl
set_option maxRecDepth 100000 in
theorem first_no : checkS (((opE ++ rqE) ++ akE).map (·.e)) true = (6, 1) := by kernel_rfl
theorem right_400 : Fm.Right (frm 4 0 0) [] := ⟨by decide, by decide, by decide, by decide, by kernel_rfl, by decide, by decide, by rw [if_neg (by decide)]; rfl, by
  have e : Fm.kd (frm 4 0 0).ty (frm 4 0 0).fl = (118, 6, 98, 99) := by kernel_rfl
  rw [e]
  unfold Fm.BodyR
  simp [frm]⟩
theorem right_400_e (s : Bool) (w : World) : EOk w (ecn s 4 0 0).e (ecn s 4 0 0).p := ⟨by unfold I64; cases s <;> decide, by unfold I64; cases s <;> decide, by cases s <;> decide, .inl ⟨none, 0, rfl, rfl⟩, .inl ⟨rfl, rfl⟩, by
  have e : (Fm.asmB (ecn s 4 0 0).e.f (ecn s 4 0 0).e.ps).size = 9 := by kernel_rfl
  rw [e]
  decide, .inl ⟨right_400, by
  have e : (Fm.asmB (ecn s 4 0 0).e.f (ecn s 4 0 0).e.ps).size = 9 := by kernel_rfl
  rw [e]
  rfl⟩⟩
theorem right_410 : Fm.Right (frm 4 1 0) [] := ⟨by decide, by decide, by decide, by decide, by kernel_rfl, by decide, by decide, by rw [if_neg (by decide)]; rfl, by
  have e : Fm.kd (frm 4 1 0).ty (frm 4 1 0).fl = (117, 0, 98, 99) := by kernel_rfl
  rw [e]
  unfold Fm.BodyR
  simp [frm]⟩
theorem right_410_e (s : Bool) (w : World) : EOk w (ecn s 4 1 0).e (ecn s 4 1 0).p := ⟨by unfold I64; cases s <;> decide, by unfold I64; cases s <;> decide, by cases s <;> decide, .inl ⟨none, 0, rfl, rfl⟩, .inl ⟨rfl, rfl⟩, by
  have e : (Fm.asmB (ecn s 4 1 0).e.f (ecn s 4 1 0).e.ps).size = 9 := by kernel_rfl
  rw [e]
  decide, .inl ⟨right_410, by
  have e : (Fm.asmB (ecn s 4 1 0).e.f (ecn s 4 1 0).e.ps).size = 9 := by kernel_rfl
  rw [e]
  rfl⟩⟩
theorem right_151 : Fm.Right (frm 1 5 1) [] := ⟨by decide, by decide, by decide, by decide, by kernel_rfl, by decide, by decide, by rw [if_neg (by decide)]; rfl, by
  have e : Fm.kd (frm 1 5 1).ty (frm 1 5 1).fl = (116, 0, 103, 104) := by kernel_rfl
  rw [e]
  unfold Fm.BodyR
  simp [frm]⟩
theorem right_151_e (s : Bool) (w : World) : EOk w (ecn s 1 5 1).e (ecn s 1 5 1).p := ⟨by unfold I64; cases s <;> decide, by unfold I64; cases s <;> decide, by cases s <;> decide, .inl ⟨none, 0, rfl, rfl⟩, .inl ⟨rfl, rfl⟩, by
  have e : (Fm.asmB (ecn s 1 5 1).e.f (ecn s 1 5 1).e.ps).size = 9 := by kernel_rfl
  rw [e]
  decide, .inl ⟨right_151, by
  have e : (Fm.asmB (ecn s 1 5 1).e.f (ecn s 1 5 1).e.ps).size = 9 := by kernel_rfl
  rw [e]
  rfl⟩⟩
theorem first_e (w : World) : ∀ x ∈ (opE ++ rqE) ++ akE, EOk w x.e x.p := by
  intro x hx
  simp only [opE, rqE, akE, List.cons_append, List.nil_append, List.mem_cons, List.not_mem_nil, or_false] at hx
  rcases hx with rfl | rfl | rfl | rfl | rfl | rfl | rfl
  · exact right_400_e _ w
  · exact right_400_e _ w
  · exact right_410_e _ w
  · exact right_410_e _ w
  · exact right_151_e _ w
  · exact right_151_e _ w
  · exact right_410_e _ w
set_option maxRecDepth 100000 in
set_option maxHeartbeats 8000000 in
theorem opening_any (w : World) : Calls Tryz.prog 15 #[] w fun r w' => r = .returned (.slice (some ⟨w.heap.size, 0, none⟩) 4 4) ∧ w' = w.alloc (.cells #[.bool true, .int .i64 4, .int .i64 0, .int .i64 0, .string ⟨#[]⟩, .int .i64 0, .int .i64 0, .bool false, .int .i64 0, .int .i64 0, .int .i64 0, .slice none 0 0, .bool false, .int .i64 4, .int .i64 0, .int .i64 0, .string ⟨#[]⟩, .int .i64 0, .int .i64 0, .bool false, .int .i64 0, .int .i64 0, .int .i64 0, .slice none 0 0, .bool true, .int .i64 4, .int .i64 1, .int .i64 0, .string ⟨#[]⟩, .int .i64 0, .int .i64 0, .bool false, .int .i64 0, .int .i64 0, .int .i64 0, .slice none 0 0, .bool false, .int .i64 4, .int .i64 1, .int .i64 0, .string ⟨#[]⟩, .int .i64 0, .int .i64 0, .bool false, .int .i64 0, .int .i64 0, .int .i64 0, .slice none 0 0] 33) := by
  go_enter Tryz.func15, Tryz.ntmps15
  go_wp2_with fail
  go_ret
  exact ⟨rfl, rfl⟩
theorem opening_R (w : World) : R EE (w.alloc (.cells #[.bool true, .int .i64 4, .int .i64 0, .int .i64 0, .string ⟨#[]⟩, .int .i64 0, .int .i64 0, .bool false, .int .i64 0, .int .i64 0, .int .i64 0, .slice none 0 0, .bool false, .int .i64 4, .int .i64 0, .int .i64 0, .string ⟨#[]⟩, .int .i64 0, .int .i64 0, .bool false, .int .i64 0, .int .i64 0, .int .i64 0, .slice none 0 0, .bool true, .int .i64 4, .int .i64 1, .int .i64 0, .string ⟨#[]⟩, .int .i64 0, .int .i64 0, .bool false, .int .i64 0, .int .i64 0, .int .i64 0, .slice none 0 0, .bool false, .int .i64 4, .int .i64 1, .int .i64 0, .string ⟨#[]⟩, .int .i64 0, .int .i64 0, .bool false, .int .i64 0, .int .i64 0, .int .i64 0, .slice none 0 0] 33)) (.slice (some ⟨w.heap.size, 0, none⟩) 4 4) opE :=
  ⟨rfl, .inr ⟨_, 4, _, rfl, Nat.zero_le _, by rw [heap_al, if_pos rfl]; rfl, Nat.le_refl _, by unfold maxLen; decide, rfl, rfl⟩⟩
theorem in_two (w : World) (B : Nat) (c : Array Value) (h : w.heap[B]? = some (.cells c 33 (0, 0))) (l : List Ec) (n : Nat) (hn : l.length = n) (hb : n ≤ 9223372036854775807) (hc : c.toList = EE.cs l) : In EE w (.slice (some ⟨B, 0, none⟩) n n) l := by
  refine .inr ⟨_, n, by rw [hn], by omega, hb, fun j u hu => ?_⟩
  rw [Addr.add_lit, cell_blk h, Nat.zero_add, ← Array.getElem?_toList, hc]
  exact hu
set_option maxRecDepth 100000 in
set_option maxHeartbeats 40000000 in
theorem first_any (w : World) (h0 : Std w) (hK : Fm.Kinds w) (hw2 : 2 ≤ w.heap.size) : Calls Tryz.prog 11 #[] w fun r w' => r = .returned (.bool true) ∧ Below w.heap.size w w' := by
  have HC : Hid (∀ (xs : List Ec) (v : Value) (V : World) (q : Int × Int), Below w.heap.size w V → In EE V v xs → (∀ x ∈ xs, EOk V x.e x.p) → xs.length ≤ 1099511627776 → checkS (xs.map (·.e)) true = q → Calls Tryz.prog 9 #[v, .bool true] V fun r w' => r = .returned (.tuple #[.int .i64 q.1, .int .i64 q.2]) ∧ Below V.heap.size V w') := fun xs v V q hV hI hE hl hq => by
    have := check_any xs v true V hI hE (h0.below hV) (hK.of_eq (hV.block 1 (by omega))) (Nat.le_trans hw2 hV.size) hl
    rw [hq] at this
    exact this
  have HO : Hid (∀ V, Calls Tryz.prog 15 #[] V fun r w' => r = .returned (.slice (some ⟨V.heap.size, 0, none⟩) 4 4) ∧ w' = V.alloc (.cells #[.bool true, .int .i64 4, .int .i64 0, .int .i64 0, .string ⟨#[]⟩, .int .i64 0, .int .i64 0, .bool false, .int .i64 0, .int .i64 0, .int .i64 0, .slice none 0 0, .bool false, .int .i64 4, .int .i64 0, .int .i64 0, .string ⟨#[]⟩, .int .i64 0, .int .i64 0, .bool false, .int .i64 0, .int .i64 0, .int .i64 0, .slice none 0 0, .bool true, .int .i64 4, .int .i64 1, .int .i64 0, .string ⟨#[]⟩, .int .i64 0, .int .i64 0, .bool false, .int .i64 0, .int .i64 0, .int .i64 0, .slice none 0 0, .bool false, .int .i64 4, .int .i64 1, .int .i64 0, .string ⟨#[]⟩, .int .i64 0, .int .i64 0, .bool false, .int .i64 0, .int .i64 0, .int .i64 0, .slice none 0 0] 33)) := fun V => opening_any V
  clear h0 hK hw2
  obtain ⟨W1, hW1⟩ : ∃ V, w.alloc (.cells #[.bool true, .int .i64 4, .int .i64 0, .int .i64 0, .string ⟨#[]⟩, .int .i64 0, .int .i64 0, .bool false, .int .i64 0, .int .i64 0, .int .i64 0, .slice none 0 0, .bool false, .int .i64 4, .int .i64 0, .int .i64 0, .string ⟨#[]⟩, .int .i64 0, .int .i64 0, .bool false, .int .i64 0, .int .i64 0, .int .i64 0, .slice none 0 0, .bool true, .int .i64 4, .int .i64 1, .int .i64 0, .string ⟨#[]⟩, .int .i64 0, .int .i64 0, .bool false, .int .i64 0, .int .i64 0, .int .i64 0, .slice none 0 0, .bool false, .int .i64 4, .int .i64 1, .int .i64 0, .string ⟨#[]⟩, .int .i64 0, .int .i64 0, .bool false, .int .i64 0, .int .i64 0, .int .i64 0, .slice none 0 0] 33) = V := ⟨_, rfl⟩
  obtain ⟨q1, hq1⟩ : ∃ q, w.heap.size = q := ⟨_, rfl⟩
  have b1 : Below w.heap.size w W1 := by rw [← hW1]; exact bel1 _ _
  have r1 := opening_R w
  rw [hW1, hq1] at r1
  obtain ⟨W2, hW2⟩ : ∃ V, W1.alloc (.cells #[.bool true, .int .i64 1, .int .i64 5, .int .i64 1, .string ⟨#[]⟩, .int .i64 0, .int .i64 0, .bool false, .int .i64 0, .int .i64 0, .int .i64 0, .slice none 0 0, .bool false, .int .i64 1, .int .i64 5, .int .i64 1, .string ⟨#[]⟩, .int .i64 0, .int .i64 0, .bool false, .int .i64 0, .int .i64 0, .int .i64 0, .slice none 0 0] 33) = V := ⟨_, rfl⟩
  obtain ⟨q2, hq2⟩ : ∃ q, W1.heap.size = q := ⟨_, rfl⟩
  have b2 : Below W1.heap.size W1 W2 := by rw [← hW2]; exact bel1 _ _
  have g2 : W2.heap[q2]? = some (.cells #[.bool true, .int .i64 1, .int .i64 5, .int .i64 1, .string ⟨#[]⟩, .int .i64 0, .int .i64 0, .bool false, .int .i64 0, .int .i64 0, .int .i64 0, .slice none 0 0, .bool false, .int .i64 1, .int .i64 5, .int .i64 1, .string ⟨#[]⟩, .int .i64 0, .int .i64 0, .bool false, .int .i64 0, .int .i64 0, .int .i64 0, .slice none 0 0] 33 (0, 0)) := by rw [← hW2, ← hq2, heap_al, if_pos rfl]
  obtain ⟨ob, oc, W3, hrun, hR3, hG3⟩ := app okEE W2 _ opE (r1.below b2) (.slice (some ⟨q2, 0, none⟩) 2 2) rqE (in_two _ q2 _ g2 rqE 2 rfl (by decide) rfl) (by simp only [EE]; decide)
  have e1 : opE.length + rqE.length = 6 := rfl
  rw [e1] at hrun hR3 hG3
  have b3 : Below w.heap.size w W3 := b1.trans ((b2.mono b1.size).trans (hG3.belowB (Nat.le_trans b1.size b2.size) (fun j hj => by simp [Value.ownBlock] at hj; omega)))
  have HB3 : Hid (Below w.heap.size w W3 ∧ R EE W3 (.slice ob 6 oc) (opE ++ rqE) ∧ ∀ j, (Value.slice ob 6 oc).ownBlock = some j → w.heap.size ≤ j) := ⟨b3, hR3, fun j hj => by
    rcases hG3.own j hj with e | e
    · simp [Value.ownBlock] at e; omega
    · have := b1.size; have := b2.size; omega⟩
  simp only [EE] at hrun
  have HRUN := hid hrun
  clear b1 r1 b2 g2 hrun hR3 hG3 b3
  go_enter Tryz.func11, Tryz.ntmps11
  go_wp2_with fail
  go_at_call 15
  refine (HO.out _).mono ?_
  rintro e V ⟨rfl, rfl⟩
  rw [hW1, hq1]
  go_upto_region 2 with (at_builtin; refine Lib.wpList_append_run _ rfl _ _ _ _ rfl _ _ rfl rfl _ _ HRUN.out ?_)
  clear hW1 hq1 hW2 hq2 HO HRUN
  go_wp2_with fail
  go_at_call 9
  refine (HC.out (opE ++ rqE) _ _ (-1, 0) HB3.out.1 HB3.out.2.1.isIn (fun x hx => first_e _ x (List.mem_append_left _ hx)) (by decide) first_ok).mono ?_
  rintro e V4 ⟨rfl, hV4⟩
  have b4 := HB3.out.1.trans (hV4.mono HB3.out.1.size)
  obtain ⟨W5, hW5⟩ : ∃ V, V4.alloc (.cells #[.bool false, .int .i64 4, .int .i64 1, .int .i64 0, .string ⟨#[]⟩, .int .i64 0, .int .i64 0, .bool false, .int .i64 0, .int .i64 0, .int .i64 0, .slice none 0 0] 33) = V := ⟨_, rfl⟩
  obtain ⟨q5, hq5⟩ : ∃ q, V4.heap.size = q := ⟨_, rfl⟩
  have b5 : Below V4.heap.size V4 W5 := by rw [← hW5]; exact bel1 _ _
  have g5 : W5.heap[q5]? = some (.cells #[.bool false, .int .i64 4, .int .i64 1, .int .i64 0, .string ⟨#[]⟩, .int .i64 0, .int .i64 0, .bool false, .int .i64 0, .int .i64 0, .int .i64 0, .slice none 0 0] 33 (0, 0)) := by rw [← hW5, ← hq5, heap_al, if_pos rfl]
  obtain ⟨nb, nc, W6, hrun, hR6, hG6⟩ := app okEE W5 _ (opE ++ rqE) ((HB3.out.2.1.below hV4).below b5) (.slice (some ⟨q5, 0, none⟩) 1 1) akE (in_two _ q5 _ g5 akE 1 rfl (by decide) rfl) (by simp only [EE]; decide)
  have e2 : (opE ++ rqE).length + akE.length = 7 := rfl
  rw [e2] at hrun hR6 hG6
  have HB6 : Hid (Below w.heap.size w W6 ∧ R EE W6 (.slice nb 7 nc) ((opE ++ rqE) ++ akE)) := ⟨b4.trans ((b5.mono b4.size).trans (hG6.belowB (Nat.le_trans b4.size b5.size) HB3.out.2.2)), hR6⟩
  simp only [EE] at hrun
  have HRUN := hid hrun
  clear hV4 b4 b5 g5 hrun hR6 hG6 HB3
  go_upto_region 3 with fail
  go_wp2_with (at_builtin; refine Lib.wpList_append_run _ rfl _ _ _ _ rfl _ _ rfl rfl _ _ HRUN.out ?_)
  go_at_call 9
  refine (HC.out ((opE ++ rqE) ++ akE) _ _ (6, 1) HB6.out.1 HB6.out.2.isIn (first_e _) (by decide) first_no).mono ?_
  rintro e V7 ⟨rfl, hV7⟩
  have HE := hid (HB6.out.1.trans (hV7.mono HB6.out.1.size))
  clear hV7 HB6 HRUN hW5 hq5
  go_wp2_with fail
  go_ret
  exact ⟨rfl, HE.out⟩
end Go.Proofs.YtfmljlflnpmceaaGreatDoor
/- Plain facts of Check; a log's entries, handed on. -/
namespace Go.Proofs.YtfmljlflnpmceaaGreatDoor
open Go.RowKit
set_option linter.unusedVariables false
set_option linter.unusedSimpArgs false
theorem chk_at : ∀ (l : List Et) (k : Lk) (i : Nat), chk k l i = (-1, 0) ∨ ∃ a : Nat, i ≤ a ∧ a < i + l.length ∧ (chk k l i).1 = (a : Int) ∧ (chk k l i).2 ≠ 0
  | [], k, i => .inl rfl
  | e :: r, k, i => by
    rw [chk_cons]
    split
    · rcases chk_at r (k.take e).1 (i + 1) with h | ⟨a, h1, h2, h3, h4⟩
      · exact .inl h
      · exact .inr ⟨a, by omega, by simp only [List.length_cons]; omega, h3, h4⟩
    · rename_i hc
      exact .inr ⟨i, Nat.le_refl _, by simp only [List.length_cons]; omega, rfl, hc⟩
/-- the entries ahead of the place are taken -/
theorem chk_take : ∀ (l : List Et) (k : Lk) (i t : Nat), (chk k l i = (-1, 0) ∨ ((i + t : Nat) : Int) ≤ (chk k l i).1) → chk k (l.take t) i = (-1, 0)
  | [], k, i, t, h => by simp [chk]
  | e :: r, k, i, 0, h => by simp [chk]
  | e :: r, k, i, t + 1, h => by
    rw [chk_cons] at h
    rw [List.take_succ_cons, chk_cons]
    by_cases hc : (k.take e).2 = 0
    · rw [if_pos hc] at h ⊢
      refine chk_take r _ (i + 1) t ?_
      rcases h with h | h
      · exact .inl h
      · exact .inr (by have : i + 1 + t = i + (t + 1) := by omega
                       rw [this]; exact h)
    · rw [if_neg hc] at h
      rcases h with h | h
      · injection h with h1 h2
        omega
      · simp only at h
        omega
/-- what stands behind the place is not looked at -/
theorem chk_behind : ∀ (l b : List Et) (k : Lk) (i a : Nat), (chk k l (i) ).1 = (a : Int) → chk k (l.take (a + 1 - i) ++ b) i = chk k l i
  | [], b, k, i, a, h => by
    simp only [chk] at h
    omega
  | e :: r, b, k, i, a, h => by
    have hia : i ≤ a := by
      rcases chk_at (e :: r) k i with h' | ⟨a', h1, _, h3, _⟩
      · rw [h'] at h
        simp only at h
        omega
      · rw [h] at h3
        omega
    have e1 : a + 1 - i = (a - i) + 1 := by omega
    rw [e1, List.take_succ_cons, List.cons_append, chk_cons, chk_cons]
    rw [chk_cons] at h
    by_cases hc : (k.take e).2 = 0
    · rw [if_pos hc] at h ⊢
      rw [if_pos hc]
      have := chk_behind r b (k.take e).1 (i + 1) a h
      have e2 : a + 1 - (i + 1) = a - i := by omega
      rw [e2] at this
      exact this
    · rw [if_neg hc, if_neg hc]
theorem checkS_behind {l : List Et} {c : Bool} {a : Nat} (h : (checkS l c).1 = (a : Int)) (b : List Et) : checkS (l.take (a + 1) ++ b) c = checkS l c := by
  have := chk_behind l b (Lk.new c) 0 a h
  simpa [checkS] using this
theorem checkS_take {l : List Et} {c : Bool} {t : Nat} (h : checkS l c = (-1, 0) ∨ (t : Int) ≤ (checkS l c).1) : checkS (l.take t) c = (-1, 0) := by
  refine chk_take l (Lk.new c) 0 t ?_
  simpa [checkS] using h
theorem checkS_at (l : List Et) (c : Bool) : checkS l c = (-1, 0) ∨ ∃ a : Nat, a < l.length ∧ (checkS l c).1 = (a : Int) ∧ (checkS l c).2 ≠ 0 := by
  rcases chk_at l (Lk.new c) 0 with h | ⟨a, _, h2, h3, h4⟩
  · exact .inl h
  · exact .inr ⟨a, by omega, h3, h4⟩
/-- an entry, whatever its memory -/
structure Eo (e : Et) : Prop where
  st : I64 e.f.st
  la : I64 e.f.last
  dz : e.f.data.size ≤ 140737488355328
  pl : e.ps.length ≤ 1099511627776
  sz : (Fm.asmB e.f e.ps).size * 3 + 2000 ≤ 140737488355328
  fn : Fn e.f e.ps e.n
theorem pin_of_in {w : World} {v : Value} {l : List (Int × Int)} (h : In EP w v l) : Fm.PIn w v l := by
  by_cases h0 : l = []
  · subst h0
    obtain ⟨b, c, e, _, _⟩ := h.slice
    exact .inl ⟨b, c, e, rfl⟩
  · have hl : 0 < l.length := List.length_pos_iff.2 h0
    obtain ⟨B, off, cap, h1, h2, _⟩ := h.par 0 hl
    obtain ⟨b, c, e, hc1, hc2⟩ := h.slice
    refine .inr ⟨B, off, cap, h1, ?_, ?_, h2, fun k hk => ?_⟩
    · rw [e] at h1; injection h1 with _ _ e3; omega
    · rw [e] at h1; injection h1 with _ _ e3; omega
    · obtain ⟨B', off', cap', h1', _, d1, d2⟩ := h.par k hk
      rw [h1] at h1'
      injection h1' with e1 _ _
      injection e1 with e1
      injection e1 with e4 e5
      subst e4 e5
      exact ⟨d1, d2⟩
theorem Eo.ok {e : Et} {p : Value} {w : World} (h : Eo e) (hp : In EP w p e.ps) : EOk w e p := ⟨h.st, h.la, h.dz, pin_of_in hp, hp, h.sz, h.fn⟩
/-- what own gives, for Check -/
theorem OwJ.check {w W : World} {o : Value} {ys xs : List Ec} (h : OwJ w W o ys xs xs.length) (he : ∀ x ∈ xs, Eo x.e) : In EE W o ys ∧ (∀ y ∈ ys, EOk W y.e y.p) ∧ ys.map (·.e) = xs.map (·.e) ∧ ys.length = xs.length ∧ Below w.heap.size w W := by
  obtain ⟨a1, a2, a3, a4, a5⟩ := h
  rw [List.take_length] at a2
  refine ⟨a1.isIn, fun y hy => ?_, a2, ?_, a5⟩
  · have hm : y.e ∈ xs.map (·.e) := by rw [← a2]; exact List.mem_map_of_mem hy
    obtain ⟨x, hx, e⟩ := List.mem_map.1 hm
    have := he x hx
    rw [e] at this
    exact this.ok (a3 y hy).1.isIn
  · have := congrArg List.length a2
    simpa using this
theorem In.cut {w : World} {b : Option Addr} {n c : Nat} {l : List Ec} (h : In EE w (.slice b n c) l) (k : Nat) (hk : k ≤ n) : In EE w (.slice b k c) (l.take k) := by
  have hl : l.length = n := by
    obtain ⟨_, _, e, _⟩ := h.slice
    injection e with _ e2 _
    exact e2.symm
  rcases h with ⟨e, rfl⟩ | ⟨a, cap, e, h1, h2, h3⟩
  · injection e with e1 e2 e3
    subst e1 e2 e3
    have : k = 0 := by omega
    subst this
    exact .inl ⟨rfl, rfl⟩
  · injection e with e1 e2 e3
    subst e1 e3
    have hk2 : (l.take k).length = k := by simp; omega
    refine .inr ⟨a, c, by rw [hk2], by omega, h2, fun j u hu => h3 j u ?_⟩
    have : EE.cs l = EE.cs (l.take k) ++ EE.cs (l.drop k) := by rw [← El.cs_append, List.take_append_drop]
    rw [this]
    rw [List.getElem?_append_left (List.getElem?_eq_some_iff.1 hu).1]
    exact hu
end Go.Proofs.YtfmljlflnpmceaaGreatDoor
/- TraceFront, walked. -/
namespace Go.Proofs.YtfmljlflnpmceaaGreatDoor
open Go.RowKit
set_option linter.unusedVariables false
set_option linter.unusedSimpArgs false
theorem belT {a b c : World} (h : Below b.heap.size b c) (h1 : Below a.heap.size a b) : Below a.heap.size a c := h1.trans (h.mono h1.size)
/-- a log in memory, with its entries -/
def Lg (w : World) (v : Value) (xs : List Ec) : Prop := In EE w v xs ∧ (∀ x ∈ xs, In EP w x.p x.e.ps) ∧ ∀ x ∈ xs, Eo x.e
set_option maxRecDepth 100000 in
set_option maxHeartbeats 40000000 in
theorem front_any (xs bs : List Ec) (v u : Value) (c : Bool) (w : World) (hx : Lg w v xs) (hb : Lg w u bs) (h0 : Std w) (hK : Fm.Kinds w) (hw2 : 2 ≤ w.heap.size) (hl : xs.length ≤ 268435456) (hl2 : bs.length ≤ 268435456) :
    Calls Tryz.prog 3 #[v, .bool c, u] w fun r w' => r = .returned (.bool true) ∧ Below w.heap.size w w' := by
  have HX : Hid (Lg w v xs) := hx
  have HBs : Hid (Lg w u bs) := hb
  have HF : Hid (∀ V, Below w.heap.size w V → Calls Tryz.prog 11 #[] V fun r w' => r = .returned (.bool true) ∧ Below V.heap.size V w') := fun V hV => first_any V (h0.below hV) (hK.of_eq (hV.block 1 (by omega))) (Nat.le_trans hw2 hV.size)
  have HOw : Hid (∀ (zs : List Ec) (z : Value) (V : World), Below w.heap.size w V → In EE V z zs → (∀ x ∈ zs, In EP w x.p x.e.ps) → (∀ x ∈ zs, Eo x.e) → zs.length ≤ 1073741824 → Calls Tryz.prog 10 #[z] V fun r w' => ∃ v' ys, r = .returned v' ∧ In EE w' v' ys ∧ (∀ y ∈ ys, EOk w' y.e y.p) ∧ ys.map (·.e) = zs.map (·.e) ∧ ys.length = zs.length ∧ Below V.heap.size V w') := fun zs z V hV hI hp he hn => by
    refine (own_any zs z V hI (fun x hx => ⟨(hp x hx).below hV, (he x hx).pl⟩) hn).mono ?_
    rintro r w' ⟨v', ys, rfl, hJ⟩
    exact ⟨v', ys, rfl, hJ.check he⟩
  have HCk : Hid (∀ (ys : List Ec) (z : Value) (V : World) (q : Int × Int), Below w.heap.size w V → In EE V z ys → (∀ y ∈ ys, EOk V y.e y.p) → ys.length ≤ 1073741824 → checkS (ys.map (·.e)) c = q → Calls Tryz.prog 9 #[z, .bool c] V fun r w' => r = .returned (.tuple #[.int .i64 q.1, .int .i64 q.2]) ∧ Below V.heap.size V w') := fun ys z V q hV hI hE hn hq => by
    have := check_any ys z c V hI hE (h0.below hV) (hK.of_eq (hV.block 1 (by omega))) (Nat.le_trans hw2 hV.size) (by omega)
    rw [hq] at this
    exact this
  obtain ⟨vb, vc, hvs, hc1, hc2⟩ := hx.1.slice
  obtain ⟨ub, uc, hus, hd1, hd2⟩ := hb.1.slice
  obtain ⟨n, hn⟩ : ∃ n, xs.length = n := ⟨_, rfl⟩
  obtain ⟨nb, hnb⟩ : ∃ n, bs.length = n := ⟨_, rfl⟩
  rw [hn] at hvs hc1 hl
  rw [hnb] at hus hd1 hl2
  subst hvs hus
  have HN : Hid (xs.length = n ∧ bs.length = nb) := ⟨hn, hnb⟩
  have HU : Hid (R EE w (.slice none 0 0) ([] : List Ec)) := R.nil _ _
  obtain ⟨⟨at', cd⟩, hq⟩ : ∃ q, checkS (xs.map (·.e)) c = q := ⟨_, rfl⟩
  have HQ : Hid (checkS (xs.map (·.e)) c = (at', cd)) := hq
  have hcase := checkS_at (xs.map (·.e)) c
  rw [hq, List.length_map, hn] at hcase
  have HOO := hid (HOw.out xs _ w (Below.refl _ _) hx.1 hx.2.1 hx.2.2 (by omega))
  clear hx hb h0 hK hw2 hq hn hnb
  go_enter Tryz.func3, Tryz.ntmps3
  go_wp2_with fail
  go_at_call 10
  refine HOO.out.mono ?_
  rintro e V1 ⟨v1, ys, rfl, hc⟩
  have HC1 := hid (HCk.out ys v1 V1 (at', cd) hc.2.2.2.2 hc.1 hc.2.1 (by rw [hc.2.2.2.1]; have := HN.out; omega) (by rw [hc.2.2.1]; exact HQ.out))
  have HB1 := hid hc.2.2.2.2
  clear hc HOO
  go_wp2_with fail
  go_at_call 9
  refine HC1.out.mono ?_
  rintro e V2 ⟨rfl, h2⟩
  have HB2 := hid (belT h2 HB1.out)
  clear h2 HC1 HB1
  go_wp2_with fail
  go_at_call 11
  refine (HF.out _ HB2.out).mono ?_
  rintro e V3 ⟨rfl, h3⟩
  have HB := hid (belT h3 HB2.out)
  clear h3 HB2
  rcases hcase with hcs | ⟨a, ha, hat, hcd⟩
  · injection hcs with e1 e2
    subst e1 e2
    have HTk : Hid (∀ i, i ≤ n → checkS ((xs.map (·.e)).take i) c = (-1, 0)) := fun i hi => checkS_take (.inl HQ.out)
    have hn0 : ¬ (-1 : Int) ≥ (n : Int) := by omega
    go_wp2_with fail
    go_loopw [13] (fun i wr => ∃ j : Nat, j ≤ n + 1 ∧ i = .int .i64 (j : Int) ∧ Hid (Below w.heap.size w wr)) (fun i _ => n + 1 - (intOf i).toNat)
    case atStart => exact ⟨0, Nat.zero_le _, rfl, HB.out⟩
    case round =>
      obtain ⟨j, hj, rfl, HI⟩ := hrel
      by_cases hlt : j ≤ n
      · have hle : (j : Int) ≤ (n : Int) := by omega
        have hsl : (j : Int) ≤ (vc : Int) := by omega
        have hs0 : (0 : Int) ≤ (j : Int) := by omega
        have hT := HTk.out j hlt
        have hjn : j ≤ n := by omega
        have HO := HOw.out (xs.take j) (.slice vb j vc) wr HI.out ((HX.out.1.below HI.out).cut j hjn) (fun x hx => HX.out.2.1 x (List.mem_of_mem_take hx)) (fun x hx => HX.out.2.2 x (List.mem_of_mem_take hx)) (by have := HN.out; rw [List.length_take]; omega)
        have HOO := hid HO
        clear HO
        go_wp2_with fail
        go_at_call 10
        refine HOO.out.mono ?_
        rintro e' V5 ⟨v5, ys5, rfl, hc5⟩
        have HC5 := hid (HCk.out ys5 v5 V5 (-1, 0) (belT hc5.2.2.2.2 HI.out) hc5.1 hc5.2.1 (by rw [hc5.2.2.2.1, List.length_take]; have := HN.out; omega) (by rw [hc5.2.2.1, List.map_take]; exact hT))
        have HB5 := hid (belT hc5.2.2.2.2 HI.out)
        clear hc5 HOO
        go_wp2_with fail
        go_at_call 9
        refine HC5.out.mono ?_
        rintro e' V6 ⟨rfl, h6⟩
        have HB6 := hid (belT h6 HB5.out)
        clear h6 HC5 HB5
        have hjw : wrap64 ((j : Int) + 1) = ((j + 1 : Nat) : Int) := by unfold wrap64; omega
        go_wp2_with fail
        go_roundw
        case rel => exact ⟨j + 1, by omega, by first | rfl | (rw [hjw]) | simp, HB6.out⟩
        case measure => simp [intOf]; omega
      · have hnle : ¬ (j : Int) ≤ (n : Int) := by omega
        go_wp2_with fail
        go_ret
        exact ⟨rfl, HI.out⟩
  · try simp only at hat hcd
    subst hat
    have HTk : Hid (∀ i, i ≤ a → checkS ((xs.map (·.e)).take i) c = (-1, 0)) := fun i hi => checkS_take (.inr (by rw [HQ.out]; simp only; omega))
    have hcdb : (cd == 0) = false := beq_eq_false_iff_ne.2 hcd
    have ham1 : ((a : Int) == -1) = false := beq_eq_false_iff_ne.2 (by omega)
    have halt : ¬ (a : Int) < -1 := by omega
    have hage : ¬ (a : Int) ≥ (n : Int) := by omega
    have hage' : ¬ (n : Int) ≤ (a : Int) := by omega
    have hag0 : (a : Int) ≥ 0 := by omega
    have hag0' : (0 : Int) ≤ (a : Int) := by omega
    have haw : wrap64 ((a : Int) + 1) = ((a + 1 : Nat) : Int) := by unfold wrap64; omega
    have hacap : ((a + 1 : Nat) : Int) ≤ (vc : Int) := by omega
    have ha0 : (0 : Int) ≤ ((a + 1 : Nat) : Int) := by omega
    have hIn1 := (HX.out.1.below HB.out).cut (a + 1) (by omega)
    have hlt1 : (xs.take (a + 1)).length = a + 1 := by rw [List.length_take, HN.out.1]; omega
    obtain ⟨mb, mc, V4, hrun, hR4, hG4⟩ := app okEE V3 (.slice none 0 0) [] (R.nil _ _) (.slice vb (a + 1) vc) (xs.take (a + 1)) hIn1 (by simp only [EE, List.length_nil, hlt1]; omega)
    simp only [List.length_nil, Nat.zero_add, List.nil_append, hlt1] at hrun hR4 hG4
    have b4 : Below V3.heap.size V3 V4 := hG4.fresh
    obtain ⟨nb', nc', V5, hrun5, hR5, hG5⟩ := app okEE V4 _ (xs.take (a + 1)) hR4 (.slice ub nb uc) bs ((HBs.out.1.below HB.out).below b4) (by simp only [EE, hlt1, HN.out.2]; omega)
    simp only [hlt1, HN.out.2] at hrun5 hR5 hG5
    have b5 : Below V3.heap.size V3 V5 := b4.trans (hG5.belowB b4.size (fun j hj => hG4.new j hj))
    have HB5 := hid (belT b5 HB.out)
    have HO5 := hid (HOw.out (xs.take (a + 1) ++ bs) _ V5 HB5.out hR5.isIn (fun x hx => (List.mem_append.1 hx).elim (fun h => HX.out.2.1 x (List.mem_of_mem_take h)) (HBs.out.2.1 x)) (fun x hx => (List.mem_append.1 hx).elim (fun h => HX.out.2.2 x (List.mem_of_mem_take h)) (HBs.out.2.2 x)) (by rw [List.length_append, hlt1, HN.out.2]; omega))
    simp only [EE] at hrun hrun5
    have HRUN := hid hrun
    have HRUN5 := hid hrun5
    clear hIn1 hlt1 hrun hR4 hG4 b4 hrun5 hR5 hG5 b5
    go_upto_region 8 with fail
    go_upto_region 9 with (at_builtin; refine Lib.wpList_append_run _ rfl _ _ _ _ rfl _ _ rfl rfl _ _ HRUN.out ?_)
    clear HRUN
    have HRUN := HRUN5
    clear HRUN5
    go_upto_region 10 with (at_builtin; refine Lib.wpList_append_run _ rfl _ _ _ _ rfl _ _ rfl rfl _ _ HRUN.out ?_)
    clear HRUN
    go_wp2_with fail
    go_at_call 10
    refine HO5.out.mono ?_
    rintro e V6 ⟨v6, ys6, rfl, hc⟩
    have HC6 := hid (HCk.out ys6 v6 V6 ((a : Int), cd) (belT hc.2.2.2.2 HB5.out) hc.1 hc.2.1 (by rw [hc.2.2.2.1, List.length_append, List.length_take, HN.out.1, HN.out.2]; omega) (by
      rw [hc.2.2.1, List.map_append, List.map_take, checkS_behind (by rw [HQ.out]), HQ.out]))
    have HB6 := hid (belT hc.2.2.2.2 HB5.out)
    clear hc HO5 HB5
    go_wp2_with fail
    go_at_call 9
    refine HC6.out.mono ?_
    rintro e V7 ⟨rfl, h7⟩
    have HB7 := hid (belT h7 HB6.out)
    clear h7 HC6 HB6 HB
    have HB := HB7
    clear HB7
    have haa : ((a : Int) == (a : Int)) = true := by simp
    have hcc : (cd == cd) = true := by simp
    go_wp2_with fail
    go_loopw [13] (fun i wr => ∃ j : Nat, j ≤ a + 1 ∧ i = .int .i64 (j : Int) ∧ Hid (Below w.heap.size w wr)) (fun i _ => a + 1 - (intOf i).toNat)
    case atStart => exact ⟨0, Nat.zero_le _, rfl, HB.out⟩
    case round =>
      obtain ⟨j, hj, rfl, HI⟩ := hrel
      by_cases hlt : j ≤ a
      · have hle : (j : Int) ≤ (a : Int) := by omega
        have hsl : (j : Int) ≤ (vc : Int) := by omega
        have hs0 : (0 : Int) ≤ (j : Int) := by omega
        have hT := HTk.out j hlt
        have hjn : j ≤ n := by omega
        have HO := HOw.out (xs.take j) (.slice vb j vc) wr HI.out ((HX.out.1.below HI.out).cut j hjn) (fun x hx => HX.out.2.1 x (List.mem_of_mem_take hx)) (fun x hx => HX.out.2.2 x (List.mem_of_mem_take hx)) (by have := HN.out; rw [List.length_take]; omega)
        have HOO := hid HO
        clear HO
        go_wp2_with fail
        go_at_call 10
        refine HOO.out.mono ?_
        rintro e' V5 ⟨v5, ys5, rfl, hc5⟩
        have HC5 := hid (HCk.out ys5 v5 V5 (-1, 0) (belT hc5.2.2.2.2 HI.out) hc5.1 hc5.2.1 (by rw [hc5.2.2.2.1, List.length_take]; have := HN.out; omega) (by rw [hc5.2.2.1, List.map_take]; exact hT))
        have HB5 := hid (belT hc5.2.2.2.2 HI.out)
        clear hc5 HOO
        go_wp2_with fail
        go_at_call 9
        refine HC5.out.mono ?_
        rintro e' V6 ⟨rfl, h6⟩
        have HB6 := hid (belT h6 HB5.out)
        clear h6 HC5 HB5
        have hjw : wrap64 ((j : Int) + 1) = ((j + 1 : Nat) : Int) := by unfold wrap64; omega
        go_wp2_with fail
        go_roundw
        case rel => exact ⟨j + 1, by omega, by first | rfl | (rw [hjw]) | simp, HB6.out⟩
        case measure => simp [intOf]; omega
      · have hnle : ¬ (j : Int) ≤ (a : Int) := by omega
        go_wp2_with fail
        go_ret
        exact ⟨rfl, HI.out⟩
end Go.Proofs.YtfmljlflnpmceaaGreatDoor
