/- Entries in rows; slices.Delete of one. -/
import Derived.Test.YtfponcdhaefkdaaDoorC1
import Derived.Lib.SliceRun
import Derived.Laws.IdiomCopy
namespace Go.Proofs.YtfponcdhaefkdaaDoor
open Go.RowKit
set_option linter.unusedVariables false
set_option linter.unusedSimpArgs false
/-- an entry: its values, and what its three lists hold -/
structure En where
  q : Rq
  ns : SV
  rn : Int
  ry : SV
  rb : ByteArray
  sz : Nat
  st : Int
  ar : Int
  fq : List Fd
  nm : List ByteArray
  fr : List Fd
def env (e : En) : Array Value := #[.string e.q.m, .string e.q.s, .string e.q.a, .string e.q.p, sv e.q.y, .string e.q.b, sv e.ns, .int .i64 e.rn, sv e.ry, .string e.rb, .int .i64 (e.sz : Int), .int .i64 e.st, .int .i64 e.ar]
def EE : El En := ⟨81, 87, 13, 200, fun e => (env e).toList⟩
theorem okE : EE.Ok := ⟨Tryd.underlying81, by kernel_rfl, by decide, by decide, fun _ => rfl, fun a u hu => by
  simp only [EE, env, List.mem_cons, List.not_mem_nil, or_false] at hu
  rcases hu with rfl | rfl | rfl | rfl | rfl | rfl | rfl | rfl | rfl | rfl | rfl | rfl | rfl <;> rfl⟩
def zero13 : List Value := [.string ⟨#[]⟩, .string ⟨#[]⟩, .string ⟨#[]⟩, .string ⟨#[]⟩, .slice none 0 0, .string ⟨#[]⟩, .slice none 0 0, .int .i64 0, .slice none 0 0, .string ⟨#[]⟩, .int .i64 0, .int .i64 0, .int .i64 0]
theorem zero13_eq : (Builtin.zeroCells #[.string ⟨#[]⟩, .string ⟨#[]⟩, .string ⟨#[]⟩, .string ⟨#[]⟩, .slice none 0 0, .string ⟨#[]⟩, .slice none 0 0, .int .i64 0, .slice none 0 0, .string ⟨#[]⟩, .int .i64 0, .int .i64 0, .int .i64 0] 1).toList = zero13 := by kernel_rfl
/-- clear of one entry of a row -/
theorem run_clear_one (w : World) (g k c ty : Nat) (cur : Array Value) (hg : w.heap[g]? = some (.cells cur 87 (0, 0))) (hfit : k * 13 + 13 ≤ cur.size) :
    (Builtin.clear_ #[81] ty #[.slice (some ⟨g, k * 13, none⟩) 1 c]).run Tryd.prog w =
      .ok (.tuple #[]) (w.setRow g (cur.toList.take (k * 13) ++ zero13 ++ cur.toList.drop (k * 13 + 13)).toArray) := by
  have hst := run_storeCells_at Tryd.prog g (k * 13) 87 zero13 0 cur w hg (by simp [zero13]; omega) (by
    intro u hu
    simp only [zero13, List.mem_cons, List.not_mem_nil, or_false] at hu
    rcases hu with rfl | rfl | rfl | rfl | rfl | rfl | rfl | rfl | rfl | rfl | rfl | rfl | rfl <;> rfl)
  simp only [Nat.add_zero, show zero13.length = 13 from rfl] at hst
  simp [Builtin.clear_, run_underlying Tryd.underlying81, Tryd.zeroValue87, Value.cells, zero13_eq, hst]
theorem run_shift (w : World) (g cap i : Nat) (L : List En) (A : Addr) (c : Nat) (cur : Array Value) (hg : w.heap[g]? = some (.cells cur 87 (0, 0))) (hi : i < L.length) (hc : L.length ≤ cap) (hcs : cur.size = cap * 13) (ht : cur.toList.take (L.length * 13) = EE.cs L) (hA : L.length - (i + 1) = 0 ∨ A = ⟨g, (i + 1) * 13, none⟩) :
    (Builtin.append_ #[81, 81] 81 #[.slice (some ⟨g, 0, none⟩) i cap, .slice (some A) (L.length - (i + 1)) c]).run Tryd.prog w = .ok (.slice (some ⟨g, 0, none⟩) (L.length - 1) cap) (w.setRow g (EE.cs (L.eraseIdx i) ++ cur.toList.drop ((L.length - 1) * 13)).toArray) := by
  obtain ⟨i0, z, hi0, hz0, hz1, hz2, hz3⟩ := info_z okE
  obtain ⟨T, hT⟩ : ∃ T, L.drop (i + 1) = T := ⟨_, rfl⟩
  have hTl : L.length - (i + 1) = T.length := by rw [← hT, List.length_drop]
  have hsplit : EE.cs L = EE.cs (L.take (i + 1)) ++ EE.cs T := by rw [← El.cs_append, ← hT, List.take_append_drop]
  have hl1 : (EE.cs (L.take (i + 1))).length = (i + 1) * 13 := by rw [okE.length, List.length_take, Nat.min_eq_left (by omega)]; rfl
  rw [hTl] at hA ⊢
  have hcells : ∀ j u, (EE.cs T)[j]? = some u → w.cell? (A.add j) = some u := by
    intro j u hu
    rcases hA with h0 | rfl
    · rw [List.eq_nil_of_length_eq_zero h0] at hu; simp [El.cs] at hu
    · rw [Addr.add_lit, cell_blk hg]
      have hj : j < T.length * 13 := by
        have := (List.getElem?_eq_some_iff.1 hu).1
        rw [okE.length] at this
        exact this
      have e : (EE.cs L)[(i + 1) * 13 + j]? = (EE.cs T)[j]? := by
        rw [hsplit, List.getElem?_append_right (by rw [hl1]; exact Nat.le_add_right _ _), hl1, Nat.add_sub_cancel_left]
      rw [← Array.getElem?_toList, ← hu, ← e, ← ht, List.getElem?_take, if_pos (by omega)]
  have hr := run_append_room (P := Tryd.prog) w 81 81 87 i0 Tryd.underlying81 hi0 g i cap cur hg A T.length c (EE.cs T) (by rw [hz1]; exact okE.length T) hcells (okE.ones T) (by omega) (by
    rw [hcs, okE.length, hz1]
    show i * 13 + T.length * 13 ≤ _
    omega)
  rw [hr]
  have e1 : i + T.length = L.length - 1 := by omega
  have e2 : cur.toList.take (i * 13) = EE.cs (L.take i) := by
    have : cur.toList.take (i * 13) = (cur.toList.take (L.length * 13)).take (i * 13) := by rw [List.take_take, Nat.min_eq_left (by omega)]
    rw [this, ht]
    have h2 : EE.cs L = EE.cs (L.take i) ++ EE.cs (L.drop i) := by rw [← El.cs_append, List.take_append_drop]
    have h3 : (EE.cs (L.take i)).length = i * 13 := by rw [okE.length, List.length_take, Nat.min_eq_left (by omega)]; rfl
    rw [h2, ← h3, List.take_left']
    rfl
  have e3 : EE.cs (L.eraseIdx i) = EE.cs (L.take i) ++ EE.cs T := by rw [List.eraseIdx_eq_take_drop_succ, El.cs_append, hT]
  have e4 : i * i0.size + (EE.cs T).length = (L.length - 1) * 13 := by
    rw [hz1, okE.length]
    show i * 13 + T.length * 13 = _
    rw [← e1]
    omega
  rw [e1, e4, e3]
  have e5 : cur.toList.take (i * i0.size) = EE.cs (L.take i) := by rw [hz1]; exact e2
  rw [e5]
set_option maxRecDepth 100000 in
set_option maxHeartbeats 4000000 in
theorem delete_walk (w : World) (g n i cap : Nat) (D : Array Value) (hi : i < n) (hk : n ≤ cap) (hc : cap ≤ 9223372036854775807)
    (hap : ∀ A : Addr, (n - (i + 1) = 0 ∨ A = ⟨g, (i + 1) * 13, none⟩) → Hid ((Builtin.append_ #[81, 81] 81 #[.slice (some ⟨g, 0, none⟩) i cap, .slice (some A) (n - (i + 1)) (cap - (i + 1))]).run Tryd.prog w.drew = .ok (.slice (some ⟨g, 0, none⟩) (n - 1) cap) (w.drew.setRow g D)))
    (W2 : World) (hcl : ∀ ty, (Builtin.clear_ #[81] ty #[.slice (some ⟨g, (n - 1) * 13, none⟩) 1 (cap - (n - 1))]).run Tryd.prog (w.drew.setRow g D) = .ok (.tuple #[]) W2) :
    Calls Tryd.prog 71 #[.slice (some ⟨g, 0, none⟩) n cap, .int .i64 (i : Int), .int .i64 ((i : Int) + 1)] w fun e w' => e = .returned (.slice (some ⟨g, 0, none⟩) (n - 1) cap) ∧ w' = W2 := by
  obtain ⟨j, hj⟩ : ∃ j : Nat, i + 1 = j := ⟨_, rfl⟩
  have hj' : (i : Int) + 1 = (j : Int) := by omega
  obtain ⟨m, hm⟩ : ∃ m : Nat, n - 1 = m := ⟨_, rfl⟩
  obtain ⟨k, hkk⟩ : ∃ k : Nat, n - j = k := ⟨_, rfl⟩
  obtain ⟨cj, hcj⟩ : ∃ k : Nat, cap - j = k := ⟨_, rfl⟩
  obtain ⟨cm, hcm⟩ : ∃ k : Nat, cap - m = k := ⟨_, rfl⟩
  rw [hm, hcm] at hcl
  rw [hj, hkk, hcj, hm] at hap
  rw [hj', hm]
  have a0 : (0 : Int) ≤ (i : Int) := by omega
  have a1 : (i : Int) ≤ (j : Int) := by omega
  have a2 : (j : Int) ≤ (n : Int) := by omega
  have a3 : (n : Int) ≤ (cap : Int) := by omega
  have a4 : ((i : Int) == (j : Int)) = false := beq_eq_false_iff_ne.2 (by omega)
  have a5 : (i : Int) ≤ (cap : Int) := by omega
  have a6 : (j : Int) ≤ (cap : Int) := by omega
  have a7 : (m : Int) ≤ (n : Int) := by omega
  have a8 : (n : Int) - (m : Int) = 1 := by omega
  have a9 : n - m = 1 := by omega
  have b1 : ¬ (n = i) := by omega
  have b2 : ¬ (cap = m) := by omega
  have b3 : ¬ (n - i = 0) := by omega
  have b4 : ¬ (cap - m = 0) := by omega
  have b5 : ¬ (i = j) := by omega
  by_cases h1 : cap = j
  · have hrun := hap ⟨g, 0, none⟩ (.inl (by omega))
    obtain ⟨e1, e2, e3, e4, e5⟩ : n = cap ∧ m = i ∧ k = 0 ∧ cj = 0 ∧ cm = 1 := ⟨by omega, by omega, by omega, by omega, by omega⟩
    subst e1 e2 e3 e4 e5 h1
    clear a7 a8 a9 b1 b2 b3 b4 a5 a6 a2 a3
    have a7 : (m : Int) ≤ (n : Int) := by omega
    have a8 : (n : Int) - (m : Int) = 1 := by omega
    have a9 : n - m = 1 := by omega
    have b1 : ¬ (n = m) := by omega
    clear hap hj hj' hm hi hk hkk hcj hcm
    go_enter Tryd.func71, Tryd.ntmps71
    go_wp2_with fail
    go_region_law (refine step_append_run rfl (.tmp 22) (.tmp 25) 81 81 rfl hrun.out (by simp [Act.eval, Act.put]) (by simp [Act.eval, Act.put]) ?_)
    all_goals
      go_wp2
      go_ret
      exact ⟨rfl, rfl⟩
  · have hrun := hap ⟨g, j * 13, none⟩ (.inr rfl)
    have b6 : ¬ (cap - j = 0) := by omega
    clear hap hj hj' hm hi hk
    go_enter Tryd.func71, Tryd.ntmps71
    go_wp2_with fail
    go_region_law (refine step_append_run rfl (.tmp 22) (.tmp 25) 81 81 rfl hrun.out (by simp [Act.eval, Act.put]) (by simp [Act.eval, Act.put]) ?_)
    all_goals
      go_wp2
      go_ret
      exact ⟨rfl, rfl⟩
theorem take_shift (cur : Array Value) (cap m : Nat) (X : List Value) (hX : X.length = m * 13) (hk : m + 1 ≤ cap) (hcs : cur.size = cap * 13) :
    let D := (X ++ cur.toList.drop (m * 13)).toArray
    let F := (D.toList.take (m * 13) ++ zero13 ++ D.toList.drop (m * 13 + 13)).toArray
    D.size = cap * 13 ∧ F.size = cap * 13 ∧ F.toList.take (m * 13) = X := by
  intro D F
  have hD : D.size = cap * 13 := by
    show (X ++ cur.toList.drop (m * 13)).toArray.size = _
    simp [hX, hcs]
    omega
  have hDt : D.toList.take (m * 13) = X := by
    show (X ++ cur.toList.drop (m * 13)).take (m * 13) = X
    rw [← hX, List.take_left']
    rfl
  refine ⟨hD, ?_, ?_⟩
  · show (D.toList.take (m * 13) ++ zero13 ++ D.toList.drop (m * 13 + 13)).toArray.size = _
    rw [hDt]
    simp only [List.size_toArray, List.length_append, List.length_drop, Array.length_toList, hD, hX]
    simp only [zero13, List.length_cons, List.length_nil]
    omega
  · show (D.toList.take (m * 13) ++ zero13 ++ D.toList.drop (m * 13 + 13)).take (m * 13) = X
    rw [hDt, List.append_assoc, ← hX, List.take_left']
    rfl
theorem delete_any (w : World) (y : SV) (L : List En) (i : Nat) (hi : i < L.length) (h : R EE w (sv y) L) :
    Calls Tryd.prog 71 #[sv y, .int .i64 (i : Int), .int .i64 ((i : Int) + 1)] w fun e w' => ∃ z : SV, e = .returned (sv z) ∧ R EE w' (sv z) (L.eraseIdx i) ∧ (sv z).ownBlock = (sv y).ownBlock ∧ Ks (fun k => (sv y).ownBlock = some k) w w' := by
  rcases h.2 with ⟨_, h0⟩ | ⟨g, cap, cur, hv, hb, hg, hn, hm, hs, ht⟩
  · omega
  · have hle : (L.eraseIdx i).length = L.length - 1 := by rw [List.length_eraseIdx, if_pos hi]
    have hXl : (EE.cs (L.eraseIdx i)).length = (L.length - 1) * 13 := by rw [okE.length, hle]; rfl
    obtain ⟨hD, hF, hFt⟩ := take_shift cur cap (L.length - 1) (EE.cs (L.eraseIdx i)) hXl (by omega) hs
    have hg2 : (w.drew.setRow g (EE.cs (L.eraseIdx i) ++ cur.toList.drop ((L.length - 1) * 13)).toArray).heap[g]? = some (.cells (EE.cs (L.eraseIdx i) ++ cur.toList.drop ((L.length - 1) * 13)).toArray 87 (0, 0)) := setRow_heap _ _ cur _ 87 (0, 0) hg
    rw [hv]
    refine (delete_walk w g L.length i cap _ hi hn (by unfold maxLen at hm; omega) (fun A hA => run_shift w.drew g cap i L A (cap - (i + 1)) cur hg hi hn hs ht hA) _ (fun ty => run_clear_one _ g (L.length - 1) (cap - (L.length - 1)) ty _ hg2 (by rw [hD]; omega))).mono ?_
    rintro e w' ⟨rfl, rfl⟩
    refine ⟨(some ⟨g, 0, none⟩, L.length - 1, cap), rfl, ⟨by rw [hXl, hle]; rfl, .inr ⟨g, cap, _, by rw [hle]; rfl, hb, setRow_heap _ _ _ _ 87 (0, 0) hg2, by rw [hle]; omega, hm, hF, by rw [hle]; exact hFt⟩⟩, rfl, ⟨rfl, rfl, rfl, by simp, fun k _ hk => ?_⟩⟩
    rw [setRow_other _ _ _ _ (fun e => hk (by rw [e]; rfl)), setRow_other _ _ _ _ (fun e => hk (by rw [e]; rfl))]
    rfl
end Go.Proofs.YtfponcdhaefkdaaDoor
