/- FeedChunks: the walk. -/
import Derived.Test.YtmhbaaemihljjaaDoorN6
namespace Go.Proofs.YtmhbaaemihljjaaDoor
open Go.RowKit
set_option linter.unusedVariables false
set_option linter.unusedSimpArgs false

/-- how it stands ahead of a round of the first loop -/
structure L1 (w W : World) (bytes : ByteArray) (m : Int) (T : Tld) (S0 : St) (g1 g2 g3 a16 a18 : Nat) (va : Value) (fr : Nat) (Sg : St) (tb : List Tl) (bb : Option Addr) (bc : Nat) (v1 v2 : Value) (c0 x0 : Int) : Prop where
  ok : Ok m Sg
  few : tb.length + Sg.wait.length ≤ fr
  co : Comes' T Sg tb (bytes.extract fr bytes.size)
  ch : Ch w W [(g1, v1, T.2.2), (g2, v2, Sg), (g3, .slice none 0 0, S0)] va (.slice bb tb.length bc) (.slice none 0 0) T.1 tb []
  b16 : W.heap[a16]? = some (.cells #[.int .i64 T.2.1.1, .int .i64 T.2.1.2] 30 (0, 0))
  b18 : W.heap[a18]? = some (.cells #[.int .i64 c0, .int .i64 x0] 30 (0, 0))

/-- and of the second -/
structure L2 (w W : World) (bytes : ByteArray) (m : Int) (T : Tld) (g1 g2 g3 a16 a18 a24 : Nat) (va vb : Value) (fr : Nat) (Sh : St) (tc : List Tl) (cb : Option Addr) (cc : Nat) (v1 v2 v3 : Value) (c0 x0 : Int) : Prop where
  ok : Ok m Sh
  few : tc.length + Sh.wait.length ≤ fr
  co : Comes' T Sh tc (bytes.extract fr bytes.size)
  ch : Ch w W [(g1, v1, T.2.2), (g2, v2, T.2.2), (g3, v3, Sh)] va vb (.slice cb tc.length cc) T.1 T.1 tc
  b16 : W.heap[a16]? = some (.cells #[.int .i64 T.2.1.1, .int .i64 T.2.1.2] 30 (0, 0))
  b18 : W.heap[a18]? = some (.cells #[.int .i64 T.2.1.1, .int .i64 T.2.1.2] 30 (0, 0))
  b24 : W.heap[a24]? = some (.cells #[.int .i64 c0, .int .i64 x0] 30 (0, 0))

theorem push_size {b : ByteArray} {i j : Nat} (h : j ≤ b.size) : (b.extract i j).size = j - i := by
  rw [ByteArray.size_extract, Nat.min_eq_left h]

/-- a push onto the second feed -/
theorem L1.push {w W W' : World} {bytes : ByteArray} {m : Int} {T : Tld} {S0 : St} {g1 g2 g3 a16 a18 : Nat} {va : Value} {fr : Nat} {Sg : St} {tb : List Tl} {bb : Option Addr} {bc : Nat} {v1 v2 v2' : Value} {c0 x0 : Int}
    (h : L1 w W bytes m T S0 g1 g2 g3 a16 a18 va fr Sg tb bb bc v1 v2 c0 x0) (upt : Nat) (h1 : fr ≤ upt) (h2 : upt ≤ bytes.size) (hA : All w W' ([(g1, v1, T.2.2), (g2, v2, Sg), (g3, .slice none 0 0, S0)].set 1 (g2, v2', pushS Sg (bytes.extract fr upt)))) (hk : Kt W W') :
    L1 w W' bytes m T S0 g1 g2 g3 a16 a18 va upt (pushS Sg (bytes.extract fr upt)) tb bb bc v1 v2' c0 x0 := by
  have hl := push_len h.ok (bytes.extract fr upt)
  rw [push_size h2] at hl
  have := h.few
  exact ⟨ok_push h.ok _, by omega, h.co.push h.ok upt h1 h2, h.ch.kt hA hk, hk.box h.b16, hk.box h.b18⟩
/-- a draining of the second feed, and the store of the fault -/
theorem L1.drain {w W W' : World} {bytes : ByteArray} {m : Int} {T : Tld} {S0 : St} {g1 g2 g3 a16 a18 : Nat} {va : Value} {fr : Nat} {Sg : St} {tb : List Tl} {bb : Option Addr} {bc : Nat} {v1 v2 : Value} {c0 x0 : Int}
    (h : L1 w W bytes m T S0 g1 g2 g3 a16 a18 va fr Sg tb bb bc v1 v2 c0 x0) (hne : a16 ≠ a18) (hw : w.heap.size ≤ a18) {lb : Option Addr} {lc : Nat} {v2' : Value} (hA : All w W' ([(g1, v1, T.2.2), (g2, v2, Sg), (g3, .slice none 0 0, S0)].set 1 (g2, v2', (dn Sg).2.2))) (hR : TRow W' (.slice lb (tb.length + (dn Sg).1.length) lc) (tb ++ (dn Sg).1)) (hk : Ku (Value.slice bb tb.length bc).ownBlock W W') (hown : ∀ k, (Value.slice lb (tb.length + (dn Sg).1.length) lc).ownBlock = some k → (Value.slice bb tb.length bc).ownBlock = some k ∨ W.heap.size ≤ k) :
    W'.heap[a18]? = some (.cells #[.int .i64 c0, .int .i64 x0] 30 (0, 0)) ∧ L1 w ((W'.setCell ⟨a18, 0, none⟩ (.int .i64 (dn Sg).2.1.1)).setCell ⟨a18, 1, none⟩ (.int .i64 (dn Sg).2.1.2)) bytes m T S0 g1 g2 g3 a16 a18 va fr (dn Sg).2.2 (tb ++ (dn Sg).1) lb lc v1 v2' (dn Sg).2.1.1 (dn Sg).2.1.2 := by
  have hrow : ∀ a, (∃ cs, W.heap[a]? = some (.cells cs 30 (0, 0))) → (Value.slice bb tb.length bc).ownBlock ≠ some a := fun a ⟨cs, ha⟩ e => by
    obtain ⟨cur, hc⟩ := h.ch.rb.type a e
    rw [ha] at hc
    simp at hc
  have b16 := hk.box h.b16 (hrow _ ⟨_, h.b16⟩)
  have b18 := hk.box h.b18 (hrow _ ⟨_, h.b18⟩)
  have hl : (tb ++ (dn Sg).1).length = tb.length + (dn Sg).1.length := List.length_append
  have hf := dn_few m _ Sg h.ok (Nat.lt_succ_self _)
  have := h.few
  have hch : Ch w W' [(g1, v1, T.2.2), (g2, v2', (dn Sg).2.2), (g3, .slice none 0 0, S0)] va (.slice lb (tb ++ (dn Sg).1).length lc) (.slice none 0 0) T.1 (tb ++ (dn Sg).1) [] := by
    rw [hl]
    exact h.ch.growB hA hR hk hown
  refine ⟨b18, ok_dn h.ok, by rw [hl]; omega, h.co.drain h.ok, hch.box a18 _ b18 hw [(0, .int .i64 (dn Sg).2.1.1), (1, .int .i64 (dn Sg).2.1.2)], kt_sets a18 [(0, .int .i64 (dn Sg).2.1.1), (1, .int .i64 (dn Sg).2.1.2)] a16 _ _ b16 hne, ?_⟩
  rw [setCell_block _ _ _ _ _ _ _ (setCell_block _ _ _ _ _ _ _ b18)]
  rfl

theorem L2.push {w W W' : World} {bytes : ByteArray} {m : Int} {T : Tld} {g1 g2 g3 a16 a18 a24 : Nat} {va vb : Value} {fr : Nat} {Sh : St} {tc : List Tl} {cb : Option Addr} {cc : Nat} {v1 v2 v3 v3' : Value} {c0 x0 : Int}
    (h : L2 w W bytes m T g1 g2 g3 a16 a18 a24 va vb fr Sh tc cb cc v1 v2 v3 c0 x0) (upt : Nat) (h1 : fr ≤ upt) (h2 : upt ≤ bytes.size) (hA : All w W' ([(g1, v1, T.2.2), (g2, v2, T.2.2), (g3, v3, Sh)].set 2 (g3, v3', pushS Sh (bytes.extract fr upt)))) (hk : Kt W W') :
    L2 w W' bytes m T g1 g2 g3 a16 a18 a24 va vb upt (pushS Sh (bytes.extract fr upt)) tc cb cc v1 v2 v3' c0 x0 := by
  have hl := push_len h.ok (bytes.extract fr upt)
  rw [push_size h2] at hl
  have := h.few
  exact ⟨ok_push h.ok _, by omega, h.co.push h.ok upt h1 h2, h.ch.kt hA hk, hk.box h.b16, hk.box h.b18, hk.box h.b24⟩
theorem L2.drain {w W W' : World} {bytes : ByteArray} {m : Int} {T : Tld} {g1 g2 g3 a16 a18 a24 : Nat} {va vb : Value} {fr : Nat} {Sh : St} {tc : List Tl} {cb : Option Addr} {cc : Nat} {v1 v2 v3 : Value} {c0 x0 : Int}
    (h : L2 w W bytes m T g1 g2 g3 a16 a18 a24 va vb fr Sh tc cb cc v1 v2 v3 c0 x0) (hne : a16 ≠ a24) (hne2 : a18 ≠ a24) (hw : w.heap.size ≤ a24) {lb : Option Addr} {lc : Nat} {v3' : Value} (hA : All w W' ([(g1, v1, T.2.2), (g2, v2, T.2.2), (g3, v3, Sh)].set 2 (g3, v3', (dn Sh).2.2))) (hR : TRow W' (.slice lb (tc.length + (dn Sh).1.length) lc) (tc ++ (dn Sh).1)) (hk : Ku (Value.slice cb tc.length cc).ownBlock W W') (hown : ∀ k, (Value.slice lb (tc.length + (dn Sh).1.length) lc).ownBlock = some k → (Value.slice cb tc.length cc).ownBlock = some k ∨ W.heap.size ≤ k) :
    W'.heap[a24]? = some (.cells #[.int .i64 c0, .int .i64 x0] 30 (0, 0)) ∧ L2 w ((W'.setCell ⟨a24, 0, none⟩ (.int .i64 (dn Sh).2.1.1)).setCell ⟨a24, 1, none⟩ (.int .i64 (dn Sh).2.1.2)) bytes m T g1 g2 g3 a16 a18 a24 va vb fr (dn Sh).2.2 (tc ++ (dn Sh).1) lb lc v1 v2 v3' (dn Sh).2.1.1 (dn Sh).2.1.2 := by
  have hrow : ∀ a, (∃ cs, W.heap[a]? = some (.cells cs 30 (0, 0))) → (Value.slice cb tc.length cc).ownBlock ≠ some a := fun a ⟨cs, ha⟩ e => by
    obtain ⟨cur, hc⟩ := h.ch.rc.type a e
    rw [ha] at hc
    simp at hc
  have b16 := hk.box h.b16 (hrow _ ⟨_, h.b16⟩)
  have b18 := hk.box h.b18 (hrow _ ⟨_, h.b18⟩)
  have b24 := hk.box h.b24 (hrow _ ⟨_, h.b24⟩)
  have hl : (tc ++ (dn Sh).1).length = tc.length + (dn Sh).1.length := List.length_append
  have hf := dn_few m _ Sh h.ok (Nat.lt_succ_self _)
  have := h.few
  have hch : Ch w W' [(g1, v1, T.2.2), (g2, v2, T.2.2), (g3, v3', (dn Sh).2.2)] va vb (.slice lb (tc ++ (dn Sh).1).length lc) T.1 T.1 (tc ++ (dn Sh).1) := by
    rw [hl]
    exact h.ch.growC hA hR hk hown
  refine ⟨b24, ok_dn h.ok, by rw [hl]; omega, h.co.drain h.ok, hch.box a24 _ b24 hw [(0, .int .i64 (dn Sh).2.1.1), (1, .int .i64 (dn Sh).2.1.2)], kt_sets a24 [(0, .int .i64 (dn Sh).2.1.1), (1, .int .i64 (dn Sh).2.1.2)] a16 _ _ b16 hne, kt_sets a24 [(0, .int .i64 (dn Sh).2.1.1), (1, .int .i64 (dn Sh).2.1.2)] a18 _ _ b18 hne2, ?_⟩
  rw [setCell_block _ _ _ _ _ _ _ (setCell_block _ _ _ _ _ _ _ b24)]
  rfl

set_option maxRecDepth 100000 in
set_option maxHeartbeats 20000000 in
theorem feedChunks_walk (server late : Bool) (limit : Int) (bytes : ByteArray) (cb : Option Addr) (nc cc : Nat) (zs : List Int) (hn : nc = zs.length) (w : World) (hK : Kinds w) (hw : 1 ≤ w.heap.size)
    (hcells : ∀ W, Below w.heap.size w W → ∀ (i : Nat) (hi : i < zs.length), ∃ a, cb = some a ∧ W.cell? (a.add i) = some (.int .i64 zs[i])) (hnb : nc ≤ 140737488351232) (hsz : bytes.size ≤ 1048576) :
    Calls Tryd.prog 5 #[.bool server, .int .i64 limit, .string bytes, .slice cb nc cc, .bool late] w fun e w' => e = .returned (.bool true) ∧ Below w.heap.size w w' := by
  have hhead := head_any w hK hw
  have HA : Hid _ := All.start hK hw
  go_enter Tryd.func5, Tryd.ntmps5
  go_wp2_with (first | (go_at_call 9; refine hhead.mono ?_; rintro e W ⟨rfl, hB⟩))
  have h0 : Hid (All w W []) := HA.out.later hB
  refine (most_walk limit W).mono ?_
  clear hB
  rintro e W ⟨m, rfl, rfl⟩
  obtain ⟨S0, hS0⟩ : ∃ S0 : St, S0 = ⟨if server then prefaceB else ⟨#[]⟩, [], m, 0⟩ := ⟨_, rfl⟩
  have HS0 : Hid _ := hS0
  clear hS0
  go_wp2_with fail
  refine (new_all h0.out server m).mono ?_
  rintro e W ⟨g1, rfl, h3, -⟩
  rw [← HS0.out] at h3
  replace h3 : Hid (All w W [(g1, .slice none 0 0, S0)]) := h3
  clear h0
  go_wp2_with fail
  refine (new_all h3.out server m).mono ?_
  rintro e W ⟨g2, rfl, h4, -⟩
  rw [← HS0.out] at h4
  replace h4 : Hid (All w W [(g1, .slice none 0 0, S0), (g2, .slice none 0 0, S0)]) := h4
  clear h3
  go_wp2_with fail
  refine (new_all h4.out server m).mono ?_
  rintro e W ⟨g3, rfl, h5, -⟩
  rw [← HS0.out] at h5
  replace h5 : Hid (All w W [(g1, .slice none 0 0, S0), (g2, .slice none 0 0, S0), (g3, .slice none 0 0, S0)]) := h5
  clear h4
  have hok0 : Hid (Ok m S0) := .inl ⟨_, _, HS0.out⟩
  have hw0 : Hid (S0.wait.length = 0) := by rw [HS0.out]; rfl
  go_wp2_with fail
  refine (push_all h5.out 0 (g := g1) (v := .slice none 0 0) (S := S0) rfl bytes (by rw [hw0.out]; omega)).mono ?_
  rintro e W ⟨rfl, v1, h6, -⟩
  replace h6 : Hid (All w W [(g1, v1, pushS S0 bytes), (g2, .slice none 0 0, S0), (g3, .slice none 0 0, S0)]) := h6
  clear h5
  obtain ⟨T, hT⟩ : ∃ T, T = dn (pushS S0 bytes) := ⟨_, rfl⟩
  have HT : Hid _ := hT
  have hco : Hid (Comes' T S0 [] (bytes.extract 0 bytes.size)) := by
    show T = _
    rw [show pushS S0 (bytes.extract 0 bytes.size) = pushS S0 bytes by simp, List.nil_append]
    exact HT.out
  have hlen1 : Hid ((pushS S0 bytes).wait.length ≤ bytes.size) := by have := push_len hok0.out bytes; rw [hw0.out] at this; show _ ≤ _; omega
  go_wp2_with fail
  refine (drained_any h6.out 0 (g := g1) (vv := v1) (S := pushS S0 bytes) rfl m (ok_push hok0.out _) none 0 [] (TRow.nil _) (fun k hk => by simp [Value.ownBlock] at hk) (by have := hlen1.out; show 0 + _ ≤ _; omega)).mono ?_
  rintro e W1 hDP
  unfold DPost at hDP
  rw [← hT] at hDP
  obtain ⟨ab, ac, v1, rfl, hA, hR, hku, hown, hsz1⟩ := hDP
  rw [List.nil_append] at hR
  simp only [List.length_nil, Nat.zero_add] at hR hown ⊢
  replace hA : All w W1 [(g1, v1, T.2.2), (g2, .slice none 0 0, S0), (g3, .slice none 0 0, S0)] := hA
  have hsz0 := h6.out.bel.size
  have hna : ∀ k, (Value.slice ab T.1.length ac).ownBlock = some k → w.heap.size ≤ k := fun k hk => (hown k hk).elim (fun h => by simp [Value.ownBlock] at h) (fun h => Nat.le_trans hsz0 h)
  have hch : Ch w W1 [(g1, v1, T.2.2), (g2, .slice none 0 0, S0), (g3, .slice none 0 0, S0)] (.slice ab T.1.length ac) (.slice none 0 0) (.slice none 0 0) T.1 [] [] :=
    ⟨hA, hR, TRow.nil _, TRow.nil _, hna, fun k hk => by simp [Value.ownBlock] at hk, fun k hk => by simp [Value.ownBlock] at hk, (far_none _).symm, (far_none _).symm, far_none _⟩
  have hl1 : Hid (L1 w ((W1.alloc (.cells #[.int .i64 T.2.1.1, .int .i64 T.2.1.2] 30)).alloc (.cells #[.int .i64 0, .int .i64 0] 30)) bytes m T S0 g1 g2 g3 W1.heap.size (W1.heap.size + 1) (.slice ab T.1.length ac) 0 S0 [] none 0 v1 (.slice none 0 0) 0 0) := by
    refine ⟨hok0.out, by rw [hw0.out]; exact Nat.le_refl _, hco.out, hch.kt ((hA.alloc _).alloc _) ((Kt.alloc _ _).trans (Kt.alloc _ _)), ?_, ?_⟩
    · simp only [heap_al, size_al]
      rw [if_neg (by omega), if_pos trivial]
    · simp only [heap_al, size_al]
      rw [if_pos trivial]
  have hwa : Hid (w.heap.size ≤ W1.heap.size) := Nat.le_trans hsz0 hsz1
  obtain ⟨va, hva⟩ : ∃ va, va = Value.slice ab T.1.length ac := ⟨_, rfl⟩
  have HVA : Hid _ := hva
  rw [← hva] at hl1
  clear hT hA hR hku hown hsz1 hsz0 hna hch h6 hlen1 hva
  go_wp2_with fail
  obtain ⟨a16, ha16⟩ : ∃ a16, a16 = W1.heap.size := ⟨_, rfl⟩
  rw [← ha16] at hl1 hwa ⊢
  clear ha16
  go_loopw [17, 19, 20] (fun x17 x19 x20 W => ∃ (i fr : Nat) (Sg : St) (tb : List Tl) (bb : Option Addr) (bc : Nat) (v1 v2 : Value) (c0 x0 : Int), x20 = .int .i64 (i : Int) ∧ x19 = .int .i64 (fr : Int) ∧ x17 = .slice bb tb.length bc ∧ i ≤ nc + 1 ∧ fr ≤ bytes.size ∧ (i = nc + 1 → fr = bytes.size) ∧ Hid (L1 w W bytes m T S0 g1 g2 g3 a16 (a16 + 1) va fr Sg tb bb bc v1 v2 c0 x0)) (fun _ _ i _ => nc + 1 - (intOf i).toNat)
  case atStart => exact ⟨0, 0, S0, [], none, 0, v1, .slice none 0 0, 0, 0, rfl, rfl, rfl, Nat.zero_le _, Nat.zero_le _, fun h => by omega, hl1.out⟩
  case round =>
    clear hl1
    obtain ⟨i, fr, Sg, tb, bb, bc, v1, v2, c0, x0, rfl, rfl, rfl, hi, hfr, hend, hL⟩ := hrel
    replace hend : Hid _ := hend
    by_cases hle : i ≤ nc
    · have hle' : (i : Int) ≤ (nc : Int) := by omega
      by_cases hlt : i < nc
      · have hlt' : (i : Int) < (nc : Int) := by omega
        have hlt2 : i < zs.length := by omega
        obtain ⟨aa, hcb, hcell⟩ := hcells _ hL.out.ch.all.bel i hlt2
        subst hcb
        obtain ⟨z, hz⟩ : ∃ z, z = zs[i] := ⟨_, rfl⟩
        rw [← hz] at hcell
        clear hz
        by_cases hz1 : z < (fr : Int)
        · go_wp2_with fail
          go_roundw
          case rel => exact ⟨i + 1, fr, Sg, tb, bb, bc, v1, v2, c0, x0, by go_num, rfl, rfl, by omega, hfr, fun h => by omega, hL.out⟩
          case measure => simp [intOf]; omega
        · by_cases hz2 : z > (bytes.size : Int)
          · go_wp2_with fail
            go_roundw
            case rel => exact ⟨i + 1, fr, Sg, tb, bb, bc, v1, v2, c0, x0, by go_num, rfl, rfl, by omega, hfr, fun h => by omega, hL.out⟩
            case measure => simp [intOf]; omega
          · obtain ⟨upt, rfl⟩ : ∃ upt : Nat, z = (upt : Int) := ⟨z.toNat, by omega⟩
            have ht1 : fr ≤ upt := by omega
            have ht2 : upt ≤ bytes.size := by omega
            go_wp2_with fail
            refine (push_all hL.out.ch.all 1 (g := g2) (v := v2) (S := Sg) rfl (bytes.extract fr upt) (by have h1 := hL.out.few; rw [push_size ht2]; omega)).mono ?_
            rintro e W2 ⟨rfl, v2, hA, kt⟩
            have hL2 : Hid (L1 w W2 bytes m T S0 g1 g2 g3 a16 (a16 + 1) va upt (pushS Sg (bytes.extract fr upt)) tb bb bc v1 v2 c0 x0) := hL.out.push upt ht1 ht2 hA kt
            clear hA kt hL
            obtain ⟨Sn, hSn⟩ : ∃ Sn, Sn = pushS Sg (bytes.extract fr upt) := ⟨_, rfl⟩
            rw [← hSn] at hL2
            clear hSn
            cases late with
            | true =>
              go_wp2_with fail
              go_roundw
              case rel => exact ⟨i + 1, upt, Sn, tb, bb, bc, v1, v2, c0, x0, by go_num, rfl, rfl, by omega, ht2, fun h => by omega, hL2.out⟩
              case measure => simp [intOf]; omega
            | false =>
              go_wp2_with fail
              refine (drained_any hL2.out.ch.all 1 (g := g2) (vv := v2) (S := Sn) rfl m hL2.out.ok bb bc tb hL2.out.ch.rb hL2.out.ch.nb (by have h1 := hL2.out.few; have h2 : upt ≤ bytes.size := ht2; omega)).mono ?_
              rintro e W3 ⟨lb, lc, v2, rfl, hA, hR, hku, hown, -⟩
              obtain ⟨b18, hL3⟩ := hL2.out.drain (by omega) (by have := hwa.out; omega) hA hR hku hown
              replace hL3 : Hid (L1 w _ bytes m T S0 g1 g2 g3 a16 (a16 + 1) va upt (dn Sn).2.2 (tb ++ (dn Sn).1) lb lc v1 v2 (dn Sn).2.1.1 (dn Sn).2.1.2) := hL3
              obtain ⟨d0, d1, f0, f1⟩ := box_cells b18
              have hll : Hid ((tb ++ (dn Sn).1).length = tb.length + (dn Sn).1.length) := List.length_append
              clear hL2 hA hR hku hown b18
              go_wp2_with fail
              go_roundw
              case rel => exact ⟨i + 1, upt, (dn Sn).2.2, tb ++ (dn Sn).1, lb, lc, v1, v2, _, _, by go_num, rfl, by rw [hll.out], by omega, ht2, fun h => by omega, hL3.out⟩
              case measure => simp [intOf]; omega
      · have hlt' : ¬ (i : Int) < (nc : Int) := by omega
        have hfr' : ¬ (bytes.size : Int) < (fr : Int) := by omega
        go_wp2_with fail
        refine (push_all hL.out.ch.all 1 (g := g2) (v := v2) (S := Sg) rfl (bytes.extract fr bytes.size) (by have h1 := hL.out.few; rw [push_size (Nat.le_refl _)]; omega)).mono ?_
        rintro e W2 ⟨rfl, v2, hA, kt⟩
        have hL2 : Hid (L1 w W2 bytes m T S0 g1 g2 g3 a16 (a16 + 1) va bytes.size (pushS Sg (bytes.extract fr bytes.size)) tb bb bc v1 v2 c0 x0) := hL.out.push bytes.size hfr (Nat.le_refl _) hA kt
        clear hA kt hL
        obtain ⟨Sn, hSn⟩ : ∃ Sn, Sn = pushS Sg (bytes.extract fr bytes.size) := ⟨_, rfl⟩
        rw [← hSn] at hL2
        clear hSn
        cases late with
        | true =>
          go_wp2_with fail
          go_roundw
          case rel => exact ⟨i + 1, bytes.size, Sn, tb, bb, bc, v1, v2, c0, x0, by go_num, rfl, rfl, by omega, (Nat.le_refl _), fun h => rfl, hL2.out⟩
          case measure => simp [intOf]; omega
        | false =>
          go_wp2_with fail
          refine (drained_any hL2.out.ch.all 1 (g := g2) (vv := v2) (S := Sn) rfl m hL2.out.ok bb bc tb hL2.out.ch.rb hL2.out.ch.nb (by have h1 := hL2.out.few; have h2 : bytes.size ≤ bytes.size := (Nat.le_refl _); omega)).mono ?_
          rintro e W3 ⟨lb, lc, v2, rfl, hA, hR, hku, hown, -⟩
          obtain ⟨b18, hL3⟩ := hL2.out.drain (by omega) (by have := hwa.out; omega) hA hR hku hown
          replace hL3 : Hid (L1 w _ bytes m T S0 g1 g2 g3 a16 (a16 + 1) va bytes.size (dn Sn).2.2 (tb ++ (dn Sn).1) lb lc v1 v2 (dn Sn).2.1.1 (dn Sn).2.1.2) := hL3
          obtain ⟨d0, d1, f0, f1⟩ := box_cells b18
          have hll : Hid ((tb ++ (dn Sn).1).length = tb.length + (dn Sn).1.length) := List.length_append
          clear hL2 hA hR hku hown b18
          go_wp2_with fail
          go_roundw
          case rel => exact ⟨i + 1, bytes.size, (dn Sn).2.2, tb ++ (dn Sn).1, lb, lc, v1, v2, _, _, by go_num, rfl, by rw [hll.out], by omega, (Nat.le_refl _), fun h => rfl, hL3.out⟩
          case measure => simp [intOf]; omega
    · have hle' : ¬ (i : Int) ≤ (nc : Int) := by omega
      obtain rfl : fr = bytes.size := hend.out (by omega)
      go_wp2_with fail
      refine (drained_any hL.out.ch.all 1 (g := g2) (vv := v2) (S := Sg) rfl m hL.out.ok bb bc tb hL.out.ch.rb hL.out.ch.nb (by have h1 := hL.out.few; omega)).mono ?_
      rintro e W3 ⟨lb, lc, v2, rfl, hA, hR, hku, hown, -⟩
      obtain ⟨b18, hL3⟩ := hL.out.drain (by omega) (by have := hwa.out; omega) hA hR hku hown
      have hfin := hL.out.co.fin hL.out.ok
      have e1 : tb ++ (dn Sg).1 = T.1 := (congrArg Prod.fst hfin).symm
      have e2 : (dn Sg).2 = T.2 := (congrArg Prod.snd hfin).symm
      have e3 : tb.length + (dn Sg).1.length = T.1.length := by rw [← List.length_append, e1]
      rw [e1, e2] at hL3
      rw [e2, e3]
      obtain ⟨d0, d1, f0, f1⟩ := box_cells b18
      obtain ⟨vb, hvb⟩ : ∃ vb, vb = Value.slice lb T.1.length lc := ⟨_, rfl⟩
      have HVB : Hid _ := hvb
      have hch3 := hL3.ch
      rw [← hvb] at hch3
      replace hch3 : Hid (Ch w _ [(g1, v1, T.2.2), (g2, v2, T.2.2), (g3, .slice none 0 0, S0)] va vb (.slice none 0 0) T.1 T.1 []) := hch3
      have b16 : Hid _ := hL3.b16
      have b18' : Hid _ := hL3.b18
      have hsz3 : Hid (a16 + 1 < W3.heap.size) := (Array.getElem?_eq_some_iff.1 b18).1
      have hl2 : Hid (L2 w (((W3.setCell ⟨a16 + 1, 0, none⟩ (.int .i64 T.2.1.1)).setCell ⟨a16 + 1, 1, none⟩ (.int .i64 T.2.1.2)).alloc (.cells #[.int .i64 0, .int .i64 0] 30)) bytes m T g1 g2 g3 a16 (a16 + 1) W3.heap.size va vb 0 S0 [] none 0 v1 v2 (.slice none 0 0) 0 0) := by
        refine ⟨hok0.out, by rw [hw0.out]; exact Nat.le_refl _, hco.out, hch3.out.kt (hch3.out.all.alloc _) (Kt.alloc _ _), (Kt.alloc _ _).box b16.out, (Kt.alloc _ _).box b18'.out, ?_⟩
        have := heap_alloc_new ((W3.setCell ⟨a16 + 1, 0, none⟩ (.int .i64 T.2.1.1)).setCell ⟨a16 + 1, 1, none⟩ (.int .i64 T.2.1.2)) (.cells #[.int .i64 0, .int .i64 0] 30)
        simpa [World.setCell] using this
      clear hL hL3 hA hR hku hown b18 hfin e1 e2 e3 hvb hend hch3 b16 b18'
      go_wp2_with fail
      obtain ⟨a24, ha24⟩ : ∃ a24, a24 = W3.heap.size := ⟨_, rfl⟩
      rw [← ha24] at hl2 hsz3 ⊢
      clear ha24 d0 d1 f0 f1
      go_loopw [22, 23] (fun x22 x23 W => ∃ (k : Nat) (Sh : St) (tc : List Tl) (eb : Option Addr) (ec : Nat) (v3 : Value) (c0 x0 : Int), x23 = .int .i64 (k : Int) ∧ x22 = .slice eb tc.length ec ∧ k ≤ bytes.size ∧ k ≤ 300 ∧ Hid (L2 w W bytes m T g1 g2 g3 a16 (a16 + 1) a24 va vb k Sh tc eb ec v1 v2 v3 c0 x0)) (fun _ k _ => 300 - (intOf k).toNat)
      case atStart => exact ⟨0, S0, [], none, 0, .slice none 0 0, 0, 0, rfl, rfl, Nat.zero_le _, Nat.zero_le _, hl2.out⟩
      case round =>
        clear hl2
        obtain ⟨k, Sh, tc, eb, ec, v3, c0, x0, rfl, rfl, hk1, hk2, hL⟩ := hrel
        by_cases hlt : k < bytes.size ∧ k < 300
        · obtain ⟨hlt1, hlt2⟩ := hlt
          have hlt1' : (k : Int) < (bytes.size : Int) := by omega
          have hlt2' : (k : Int) < 300 := by omega
          go_wp2_with fail
          refine (push_all hL.out.ch.all 2 (g := g3) (v := v3) (S := Sh) rfl (bytes.extract k (k + 1)) (by have h1 := hL.out.few; rw [push_size hlt1]; omega)).mono ?_
          rintro e W4 ⟨rfl, v3, hA, kt⟩
          have hL2 : Hid (L2 w W4 bytes m T g1 g2 g3 a16 (a16 + 1) a24 va vb (k + 1) (pushS Sh (bytes.extract k (k + 1))) tc eb ec v1 v2 v3 c0 x0) := hL.out.push (k + 1) (Nat.le_succ _) hlt1 hA kt
          clear hA kt hL
          obtain ⟨Sn, hSn⟩ : ∃ Sn, Sn = pushS Sh (bytes.extract k (k + 1)) := ⟨_, rfl⟩
          rw [← hSn] at hL2
          clear hSn
          go_wp2_with fail
          refine (drained_any hL2.out.ch.all 2 (g := g3) (vv := v3) (S := Sn) rfl m hL2.out.ok eb ec tc hL2.out.ch.rc hL2.out.ch.nc (by have h1 := hL2.out.few; omega)).mono ?_
          rintro e W5 ⟨lb2, lc2, v3, rfl, hA, hR, hku, hown, -⟩
          obtain ⟨b24, hL3⟩ := hL2.out.drain (by have := hsz3.out; omega) (by have := hsz3.out; omega) (by have := hwa.out; have := hsz3.out; omega) hA hR hku hown
          replace hL3 : Hid (L2 w _ bytes m T g1 g2 g3 a16 (a16 + 1) a24 va vb (k + 1) (dn Sn).2.2 (tc ++ (dn Sn).1) lb2 lc2 v1 v2 v3 (dn Sn).2.1.1 (dn Sn).2.1.2) := hL3
          obtain ⟨d0, d1, f0, f1⟩ := box_cells b24
          have hll : Hid ((tc ++ (dn Sn).1).length = tc.length + (dn Sn).1.length) := List.length_append
          clear hL2 hA hR hku hown b24
          go_wp2_with fail
          go_roundw
          case rel => exact ⟨k + 1, (dn Sn).2.2, tc ++ (dn Sn).1, lb2, lc2, v3, _, _, by go_num, by rw [hll.out], hlt1, by omega, hL3.out⟩
          case measure => simp [intOf]; omega
        · have hstop : ((k : Int) < (bytes.size : Int) → ¬ (k : Int) < 300) := fun h => by omega
          have hfinish : Hid True := trivial
          by_cases hlt1 : k < bytes.size
          all_goals
            first | (have hlt1' : (k : Int) < (bytes.size : Int) := by omega) | (have hlt1' : ¬ (k : Int) < (bytes.size : Int) := by omega)
            first | (have hlt2' : ¬ (k : Int) < 300 := hstop hlt1') | skip
            clear hstop hlt hlt1
            go_wp2_with fail
            refine (push_all hL.out.ch.all 2 (g := g3) (v := v3) (S := Sh) rfl (bytes.extract k bytes.size) (by have h1 := hL.out.few; rw [push_size (Nat.le_refl _)]; omega)).mono ?_
            rintro e W4 ⟨rfl, v3, hA, kt⟩
            have hL2 : Hid (L2 w W4 bytes m T g1 g2 g3 a16 (a16 + 1) a24 va vb bytes.size (pushS Sh (bytes.extract k bytes.size)) tc eb ec v1 v2 v3 c0 x0) := hL.out.push bytes.size hk1 (Nat.le_refl _) hA kt
            clear hA kt hL
            obtain ⟨Sn, hSn⟩ : ∃ Sn, Sn = pushS Sh (bytes.extract k bytes.size) := ⟨_, rfl⟩
            rw [← hSn] at hL2
            clear hSn
            go_wp2_with fail
            refine (drained_any hL2.out.ch.all 2 (g := g3) (vv := v3) (S := Sn) rfl m hL2.out.ok eb ec tc hL2.out.ch.rc hL2.out.ch.nc (by have h1 := hL2.out.few; omega)).mono ?_
            rintro e W5 ⟨lb2, lc2, v3, rfl, hA, hR, hku, hown, -⟩
            obtain ⟨b24, hL3⟩ := hL2.out.drain (by have := hsz3.out; omega) (by have := hsz3.out; omega) (by have := hwa.out; have := hsz3.out; omega) hA hR hku hown
            have hfin := hL2.out.co.fin hL2.out.ok
            have e1 : tc ++ (dn Sn).1 = T.1 := (congrArg Prod.fst hfin).symm
            have e2 : (dn Sn).2 = T.2 := (congrArg Prod.snd hfin).symm
            have e3 : tc.length + (dn Sn).1.length = T.1.length := by rw [← List.length_append, e1]
            rw [e1, e2] at hL3
            rw [e2, e3]
            obtain ⟨d0, d1, f0, f1⟩ := box_cells b24
            have hch := hL3.ch
            obtain ⟨c16, c16', -, -⟩ := box_cells hL3.b16
            obtain ⟨c18, c18', -, -⟩ := box_cells hL3.b18
            obtain ⟨c24, c24', -, -⟩ := box_cells hL3.b24
            rw [HVA.out, HVB.out] at hch
            obtain ⟨WF, hWF⟩ : ∃ WF, WF = (W5.setCell ⟨a24, 0, none⟩ (.int .i64 T.2.1.1)).setCell ⟨a24, 1, none⟩ (.int .i64 T.2.1.2) := ⟨_, rfl⟩
            rw [← hWF] at hch
            have hs1 : Hid (∀ W', Below WF.heap.size WF W' → Calls Tryd.prog 17 #[.slice ab T.1.length ac, .slice lb T.1.length lc] W' fun e W'' => e = .returned (.bool true) ∧ Below WF.heap.size WF W'') := fun W' hb => by
              refine (sameTold_eq W' _ _ _ (hch.ra.kt (Kt.below hb)) (hch.rb.kt (Kt.below hb))).mono ?_
              rintro e W'' ⟨rfl, h⟩
              exact ⟨rfl, hb.trans (h.mono hb.size)⟩
            have hs2 : Hid (∀ W', Below WF.heap.size WF W' → Calls Tryd.prog 17 #[.slice ab T.1.length ac, .slice lb2 T.1.length lc2] W' fun e W'' => e = .returned (.bool true) ∧ Below WF.heap.size WF W'') := fun W' hb => by
              refine (sameTold_eq W' _ _ _ (hch.ra.kt (Kt.below hb)) (hch.rc.kt (Kt.below hb))).mono ?_
              rintro e W'' ⟨rfl, h⟩
              exact ⟨rfl, hb.trans (h.mono hb.size)⟩
            have hwt : Hid (∀ W', Below WF.heap.size WF W' → (Calls Tryd.prog 13 #[.pointer (some ⟨g1, 0, none⟩)] W' fun e W'' => e = .returned (.int .i64 (T.2.2.wait.length : Int)) ∧ W'' = W') ∧ (Calls Tryd.prog 13 #[.pointer (some ⟨g2, 0, none⟩)] W' fun e W'' => e = .returned (.int .i64 (T.2.2.wait.length : Int)) ∧ W'' = W') ∧ (Calls Tryd.prog 13 #[.pointer (some ⟨g3, 0, none⟩)] W' fun e W'' => e = .returned (.int .i64 (T.2.2.wait.length : Int)) ∧ W'' = W')) := fun W' hb =>
              ⟨wait_all (hch.all.later hb) 0 (g := g1) (v := v1) (S := T.2.2) rfl, wait_all (hch.all.later hb) 1 (g := g2) (v := v2) (S := T.2.2) rfl, wait_all (hch.all.later hb) 2 (g := g3) (v := v3) (S := T.2.2) rfl⟩
            have hbw : Hid (∀ W', Below WF.heap.size WF W' → Below w.heap.size w W') := fun W' hb => hch.all.bel.trans (hb.mono hch.all.bel.size)
            have hb0 : Hid (Below WF.heap.size WF ((W5.setCell ⟨a24, 0, none⟩ (.int .i64 T.2.1.1)).setCell ⟨a24, 1, none⟩ (.int .i64 T.2.1.2))) := by rw [hWF]; exact Below.refl _ _
            clear hL2 hL3 hA hR hku hown b24 hfin e1 e2 e3 hch hWF
            go_wp2_with fail
            refine (hs1.out _ hb0.out).mono ?_
            rintro e W6 ⟨rfl, hb1⟩
            go_wp2_with fail
            refine (hs2.out _ hb1).mono ?_
            rintro e W7 ⟨rfl, hb2⟩
            replace hb2 : Hid _ := hb2
            clear c16 c16' c18 c18' c24 c24' d0 d1 f0 f1 hs1 hs2 hb0 hb1
            go_wp2_with (first | (go_at_call 13; first | (refine (hwt.out _ hb2.out).1.mono ?_; rintro e W7 ⟨rfl, rfl⟩) | (refine (hwt.out _ hb2.out).2.1.mono ?_; rintro e W7 ⟨rfl, rfl⟩) | (refine (hwt.out _ hb2.out).2.2.mono ?_; rintro e W7 ⟨rfl, rfl⟩)))
            go_ret
            exact ⟨rfl, hbw.out _ hb2.out⟩
end Go.Proofs.YtmhbaaemihljjaaDoor
