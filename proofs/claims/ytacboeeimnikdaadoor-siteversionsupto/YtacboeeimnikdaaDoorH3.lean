/- what right makes is a page; the law's built: what holds between the calls. -/
import Derived.Test.YtacboeeimnikdaaDoorH2
namespace Go.Proofs.YtacboeeimnikdaaDoor
open Go.RowKit Go.Maps
open Go.Shelf
set_option linter.unusedVariables false
set_option linter.unusedSimpArgs false

theorem rtP_size (p : ByteArray) : (rtP p).size ≤ 4 := by
  unfold rtP
  rw [ByteArray.size_append]
  have := wd_size p
  show 1 + _ ≤ 4
  omega
theorem rtP_list (p : ByteArray) : (rtP p).data.toList = 47 :: 112 :: (p.data.toList.take 2).map ltr := by
  unfold rtP wdS wdL
  rw [ByteArray.data_append, Array.toList_append]
  simp [bt]
theorem rtP_tx (p : ByteArray) : txB (rtP p) = true ∧ (first0 (rtP p) == 47) = true := by
  have hl := rtP_list p
  constructor
  · unfold txB consB allB
    simp only [Bool.and_eq_true, decide_eq_true_eq]
    have hz := rtP_size p
    have hs := Lib.size_eq (rtP p)
    refine ⟨⟨by rw [hs, hl]; simp, by omega⟩, ?_⟩
    rw [hl, List.all_eq_true]
    intro x hx
    rcases List.mem_cons.1 hx with rfl | hx
    · rfl
    · rcases List.mem_cons.1 hx with rfl | hx
      · rfl
      · obtain ⟨y, _, rfl⟩ := List.mem_map.1 hx
        refine (vis_iff _).2 ?_
        rw [ltr_nat]
        omega
  · unfold first0
    have : (rtP p).get! 0 = 47 := get_bang (by rw [hl]; rfl)
    rw [this]
    rfl
theorem rtC_b (k : Nat) (cs : List Ch) (i : Nat) : (rtC k cs i).b.size ≤ 65536 := by
  unfold rtC
  simp only
  split
  · exact cutB_le _
  · decide
theorem rtT_get (k : Nat) (cs : List Ch) (j i : Nat) (h : i < (rtT k cs j).length) : (rtT k cs j)[i] = rtC k cs i := by simp [rtT]
theorem right_pg (p : ByteArray) (n : Int) (cs : List Ch) (y : SV) : pgB ⟨aTest, rtP p, 200, rtV (rtK n), y⟩ (rtL n cs) = true := by
  unfold pgB
  have e1 : txB aTest = true := by kernel_rfl
  have e3 : staB 200 = true := by kernel_rfl
  simp only
  rw [e1, (rtP_tx p).1, (rtP_tx p).2, e3]
  simp only [Bool.true_and]
  have hk := rtK_lt n
  unfold rtL
  obtain ⟨k, hke⟩ : ∃ k, rtK n = k := ⟨_, rfl⟩
  rw [hke] at hk ⊢
  unfold chB
  rw [rtT_len]
  by_cases h2 : k = 2
  · subst h2
    have e4 : noVary (rtV 2) = false := by kernel_rfl
    have e5 : nmB (rtV 2) = true := by kernel_rfl
    rw [e4, e5]
    simp only [Bool.and_eq_true, decide_eq_true_eq]
    have hN : rtN 2 cs.length = min 8 (max 1 cs.length) := rfl
    refine ⟨⟨by omega, by omega⟩, ?_⟩
    rw [if_neg (by simp), Bool.true_and, List.all_eq_true]
    intro i hi
    have hi := List.mem_range.1 hi
    unfold goodAt
    rw [List.getElem?_eq_getElem (by rw [rtT_len]; exact hi), rtT_get]
    simp only [Bool.and_eq_true]
    have hv : (rtC 2 cs i).v = vS i := rfl
    refine ⟨⟨by rw [hv]; exact (vS_val (by omega)).1, decide_eq_true (rtC_b 2 cs i)⟩, ?_⟩
    have ht : (rtT 2 cs (rtN 2 cs.length)).take i = rtT 2 cs i := by unfold rtT; rw [← List.map_take, List.take_range, Nat.min_eq_left (by omega)]
    have hp : plI (rtT 2 cs i) (rtC 2 cs i).v = -1 := plI_none fun j hj => by
      rw [rtT_get]
      rw [rtT_len] at hj
      exact vS_lt (by omega) hj
    rw [ht, hp]
    rfl
  · have hN : rtN k cs.length = 1 := by unfold rtN; rw [if_neg h2]
    have e4 : noVary (rtV k) = true := by
      have : k = 0 ∨ k = 1 := by omega
      have z0 : noVary (rtV 0) = true := by kernel_rfl
      have z1 : noVary (rtV 1) = true := by kernel_rfl
      rcases this with h | h
      · rw [h]; exact z0
      · rw [h]; exact z1
    rw [e4, hN, if_pos rfl]
    have hl : rtT k cs 1 = [rtC k cs 0] := rfl
    rw [hl]
    have hv : (rtC k cs 0).v = e0S := by unfold rtC; simp only; rw [if_neg h2]
    have he : (rtC k cs 0).v.toList.isEmpty = true := by rw [hv]; kernel_rfl
    have hb : bdB (rtC k cs 0).b = true := decide_eq_true (rtC_b k cs 0)
    unfold loneB
    simp only
    rw [he, hb]
    rfl
/-- a row of right pages, made since w -/
structure Bt (w wr : World) (y : SV) (l : List PC) : Prop where
  bel : Below w.heap.size w wr
  row : R EPg wr (sv y) l
  new : ∀ k, (sv y).ownBlock = some k → w.heap.size ≤ k
  ch : ∀ x ∈ l, R ECh wr (sv x.1.ys) x.2
  ok : ∀ x ∈ l, pgB x.1 x.2 = true ∧ x.1.a = aTest ∧ x.1.p.size ≤ 4
  nd : (l.map tgP).Nodup
  le : l.length ≤ 20
theorem Bt.below {w wx wy : World} {y : SV} {l : List PC} (h : Bt w wx y l) (hb : Below wx.heap.size wx wy) : Bt w wy y l :=
  ⟨h.bel.trans (hb.mono h.bel.size), h.row.below hb, h.new, fun x hx => (h.ch x hx).below hb, h.ok, h.nd, h.le⟩
theorem Bt.start (w : World) : Bt w w (none, 0, 0) [] := ⟨Below.refl _ _, R.nil _ _, fun k hk => by simp [sv, Value.ownBlock] at hk, fun x hx => by simp at hx, fun x hx => by simp at hx, by simp, by simp⟩
theorem Bt.app {w W : World} {y : SV} {l : List PC} (h : Bt w W y l) (x : PC) (v : Value) (hv : In EPg W v [x]) (hc : R ECh W (sv x.1.ys) x.2) (hok : pgB x.1 x.2 = true ∧ x.1.a = aTest ∧ x.1.p.size ≤ 4) (hn : ∀ z ∈ l, z.1.p ≠ x.1.p) (hl : l.length < 20) :
    ∃ bs m c w2, (Builtin.append_ #[34, 34] 34 #[sv y, v]).run Tryd.prog W = .ok (.slice bs m c) w2 ∧ Bt w w2 (bs, m, c) (l ++ [x]) := by
  obtain ⟨bs, c, w2, hrun, hR, hG⟩ := Go.Proofs.YtacboeeimnikdaaDoor.app okPg W (sv y) l h.row v [x] hv (by simp [EPg]; omega)
  refine ⟨bs, _, c, w2, hrun, ⟨h.bel.trans (hG.belowB h.bel.size h.new), hR, fun k hk => ?_, fun z hz => ?_, fun z hz => ?_, ?_, by simp; omega⟩⟩
  · rcases hG.own k hk with h' | h'
    · exact h.new k h'
    · have := h.bel.size; omega
  · have hz' : R ECh W (sv z.1.ys) z.2 := by
      rcases List.mem_append.1 hz with hz | hz
      · exact h.ch z hz
      · rw [List.mem_singleton.1 hz]; exact hc
    exact hz'.stays fun k hk hlt => hG.block k hlt fun e => by
      obtain ⟨c1, hc1⟩ := hz'.ty k hk
      obtain ⟨c2, hc2⟩ := h.row.ty k e
      rw [hc1] at hc2
      injection hc2 with hc2
      injection hc2 with _ hc2
      simp [ECh, EPg] at hc2
  · rcases List.mem_append.1 hz with hz | hz
    · exact h.ok z hz
    · rw [List.mem_singleton.1 hz]; exact hok
  · rw [List.map_append, List.nodup_append]
    refine ⟨h.nd, by simp, fun a ha b hb e => ?_⟩
    obtain ⟨z, hz, rfl⟩ := List.mem_map.1 ha
    simp at hb
    rw [hb] at e
    exact hn z hz (congrArg Prod.snd e)
theorem Bt.nw {w W : World} {y : SV} {l : List PC} (h : Bt w W y l) : nwE l = 0 := by
  unfold nwE
  have hw : l.any wrB = false := List.any_eq_false.2 fun x hx => by unfold wrB; rw [(h.ok x hx).1]; simp
  rw [hw, if_neg (by simp), if_neg (by have := h.le; omega), if_pos h.nd]
theorem Bt.new_any {w W : World} {y : SV} {l : List PC} (h : Bt w W y l) : Calls Tryd.prog 10 #[sv y] W fun e w' => Below W.heap.size W w' ∧ ∃ g, W.heap.size ≤ g ∧ e = .returned (.tuple #[.pointer (some ⟨g, 0, none⟩), .int .i64 0]) ∧ Sx w' W.heap.size g l.length 1 (Fk l) (l.map tgP) := by
  refine (Go.Proofs.YtacboeeimnikdaaDoor.new_any y l W h.row.isIn (fun x hx => (h.ch x hx).isIn)).mono ?_
  rintro e w' ⟨hB, he⟩
  refine ⟨hB, ?_⟩
  rcases he with ⟨q, _⟩ | ⟨_, g, hg, q1, q2⟩
  · exact absurd h.nw q
  · exact ⟨g, hg, q1, q2⟩
end Go.Proofs.YtacboeeimnikdaaDoor
