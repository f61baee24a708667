/- ShareWhole: rest. -/
import Derived.Test.YtbmaknjeflblcaaKc
import Derived.Test.YtbmaknjeflblcaaS2
import Derived.Test.YtbmaknjeflblcaaB1
namespace Go.Proofs.Ytbmaknjeflblcaa
open Go.RowKit Go.Maps
set_option linter.unusedVariables false
set_option linter.unusedSimpArgs false

/-- what was put of a stream is what has gone and what waits -/
structure Wh (T : St) (id : Int) (put got : ByteArray) (en : Bool) : Prop where
  b : put.data.toList = got.data.toList ++ T.b id
  e : T.e id = en
  o : T.ov id = en
theorem Wh.len {T : St} {id : Int} {put got : ByteArray} {e : Bool} (h : Wh T id put got e) : put.size = got.size + (T.b id).length := by
  have := congrArg List.length h.b
  simpa using this
theorem ba_ext {a b : ByteArray} (h : a.data.toList = b.data.toList) : a = b := by
  cases a; cases b; simp only at h; congr 1; exact Array.toList_inj.1 h
theorem ba_app (a b : ByteArray) : (a ++ b).data.toList = a.data.toList ++ b.data.toList := by simp [ByteArray.data_append]
def ba (l : List UInt8) : ByteArray := ⟨l.toArray⟩
theorem ba_list (l : List UInt8) : (ba l).data.toList = l := rfl
theorem ba_size (l : List UInt8) : (ba l).size = l.length := by simp [ba, ByteArray.size]
theorem tx_ba (l : List UInt8) : tx l = .string (ba l) := rfl
def tailB : ByteArray := ⟨#[116, 97, 105, 108]⟩
theorem Wh.tail {T : St} {id : Int} {put got : ByteArray} (h : Wh T id put got false) (ok : T.Ok) (hi : isId id = true) : T.putE id = 0 ∧ Wh (T.put id tailB.data.toList true) id (put ++ tailB) got true ∧ ((T.put id tailB.data.toList true).b id).length = (T.b id).length + 4 := by
  have h0 := putE_ok hi h.o
  refine ⟨h0, ⟨?_, ?_, ?_⟩, ?_⟩
  · rw [ba_app, put_b ok h0, if_pos rfl, h.b, List.append_assoc]
  · rw [put_e ok h0, if_pos rfl]
  · rw [put_ov ok h0, if_pos rfl]
  · rw [put_b ok h0, if_pos rfl, List.length_append]; rfl
/-- one piece of five bytes -/
theorem Wh.five {T : St} {id : Int} {put got : ByteArray} (h : Wh T id put got true) (ok : T.Ok) (hn : 1 ≤ (T.b id).length) :
    T.nextE id 1099511627776 1099511627776 5 = 0 ∧ ∃ n, 1 ≤ n ∧ n ≤ 5 ∧ n ≤ (T.b id).length ∧ (T.nextP id 1099511627776 1099511627776 5).length = n ∧
      ((T.next id 1099511627776 1099511627776 5).b id).length = (T.b id).length - n ∧
      T.nextL id 1099511627776 1099511627776 5 = decide ((T.b id).length - n = 0) ∧
      (got ++ ba (T.nextP id 1099511627776 1099511627776 5)).size = got.size + n ∧
      (((T.b id).length - n = 0 ∧ got ++ ba (T.nextP id 1099511627776 1099511627776 5) = put ∧ (T.next id 1099511627776 1099511627776 5).is id = false) ∨
        (1 ≤ (T.b id).length - n ∧ Wh (T.next id 1099511627776 1099511627776 5) id put (got ++ ba (T.nextP id 1099511627776 1099511627776 5)) true)) := by
  have hne : (T.b id).isEmpty = false := by
    cases e : (T.b id).isEmpty
    · rfl
    · rw [List.isEmpty_iff] at e; rw [e] at hn; simp at hn
  have his : T.is id = true := by rw [ok.is_eq, h.e]; unfold no; simp
  have hE : T.nextE id 1099511627776 1099511627776 5 = 0 := nextE_ok (by decide) his (by unfold mg; rw [hne]; rfl)
  obtain ⟨n, hN, h1, h2, h3⟩ : ∃ n, T.nextN id 1099511627776 1099511627776 5 = n ∧ 1 ≤ n ∧ n ≤ 5 ∧ n ≤ (T.b id).length ∧ True := by
    refine ⟨_, rfl, ?_, ?_, ?_, trivial⟩ <;> (unfold St.nextN rm; omega)
  have h4 := h3.1
  have hP : T.nextP id 1099511627776 1099511627776 5 = (T.b id).take n := by rw [St.nextP, if_pos hE, hN]
  have hL : T.nextL id 1099511627776 1099511627776 5 = decide ((T.b id).length - n = 0) := by
    unfold St.nextL
    rw [hE, hN, h.e]
    simp
    omega
  have hb := next_b (j := id) ok hE
  rw [if_pos rfl, hN] at hb
  have hsz : (got ++ ba (T.nextP id 1099511627776 1099511627776 5)).size = got.size + n := by
    rw [ByteArray.size_append, ba_size, hP, List.length_take]
    omega
  refine ⟨hE, n, h1, h2, h4, by rw [hP, List.length_take]; omega, by rw [hb, List.length_drop], hL, hsz, ?_⟩
  have hcat : put.data.toList = (got ++ ba (T.nextP id 1099511627776 1099511627776 5)).data.toList ++ (T.b id).drop n := by
    rw [ba_app, ba_list, hP, List.append_assoc, List.take_append_drop]
    exact h.b
  by_cases hz : (T.b id).length - n = 0
  · refine .inl ⟨hz, ?_, ?_⟩
    · apply ba_ext
      rw [hcat, List.drop_of_length_le (by omega), List.append_nil]
    · rw [(ok.next _ _ _ _).is_eq, hb, next_e ok hE, if_pos rfl, hL, h.e, List.drop_of_length_le (by omega)]
      simp [hz, no]
  · refine .inr ⟨by omega, ⟨?_, ?_, ?_⟩⟩
    · rw [hb]; exact hcat
    · rw [next_e ok hE, if_pos rfl, hL, h.e]; simp [hz]
    · rw [next_ov]; exact h.o
set_option maxRecDepth 100000 in
set_option maxHeartbeats 2000000 in
theorem rest_any (w : World) (N : Nat → Prop) (p : Nat) (T : St) (id : Int) (put got : ByteArray) (hi : isId id = true) (h : Sn w N p T) (hw : Wh T id put got false) (hz : put.size ≤ 1048576) :
    Calls Try.prog 19 #[.pointer (some ⟨p, 0, none⟩), .int .i64 id, .string put, .string got] w fun e w' => e = .returned (.bool true) ∧ Kn N w w' := by
  have hidr := isId_iff.1 hi
  have hid : wf64 id := by unfold wf64; omega
  have hlen := hw.len
  obtain ⟨h0, hw1, hl1⟩ := hw.tail h.ok hi
  obtain ⟨put1, hp1⟩ : ∃ q, put ++ ⟨#[116, 97, 105, 108]⟩ = q := ⟨_, rfl⟩
  have hsz1 : put1.size = put.size + 4 := by rw [← hp1, ByteArray.size_append]; rfl
  have HSZ : Hid (put1.size = put.size + 4) := hsz1
  replace hw1 : Hid (Wh (T.put id tailB.data.toList true) id put1 got true) := by rw [← hp1]; exact hw1
  have hnn : Hid (1 ≤ ((T.put id tailB.data.toList true).b id).length ∧ ((T.put id tailB.data.toList true).b id).length ≤ put.size + 4) := ⟨by omega, by omega⟩
  clear hsz1 hw hl1
  go_enter Try.func19, Try.ntmps19
  go_wp2_with fail
  refine (put_n h id tailB true hid (by show _ + 4 ≤ _; omega)).mono ?_
  rintro e w1 ⟨rfl, h1, hK1⟩
  rw [h0]
  generalize T.put id tailB.data.toList true = T1 at h1 hw1 hnn
  clear h h0 hlen
  go_wp2_with fail
  refine (put_n h1 id ⟨#[]⟩ false hid (by show _ + 0 ≤ _; have := hnn.out; omega)).mono ?_
  rintro e w2 ⟨rfl, h2, hK2⟩
  rw [putE_state hi hw1.out.o]
  rw [put_same (by rw [putE_state hi hw1.out.o]; decide)] at h2
  have hK := hK1.trans hK2
  clear h1 hK1 hK2
  go_wp2_with fail
  have hst : Hid (Sn w2 N p T1 ∧ Wh T1 id put1 got true ∧ 1 ≤ (T1.b id).length ∧ (T1.b id).length + 0 ≤ put1.size ∧ Kn N w w2) := ⟨h2, hw1.out, hnn.out.1, by have := hnn.out; have := HSZ.out; omega, hK⟩
  have hps : put1.size ≤ 1048580 := by have := HSZ.out; omega
  clear h2 hw1 hnn hK HSZ hz hp1
  go_loopw [3, 9, 10, 11, 12, 13, 14, 15] (fun g k _ _ _ _ _ _ wr => ∃ (kk : Nat) (gt : ByteArray) (T : St), g = .string gt ∧ k = .int .i64 (kk : Int) ∧ Hid (Sn wr N p T ∧ Wh T id put1 gt true ∧ 1 ≤ (T.b id).length ∧ (T.b id).length + kk ≤ put1.size ∧ Kn N w wr)) (fun _ k _ _ _ _ _ _ _ => put1.size + 1 - (intOf k).toNat)
  case atStart => exact ⟨0, got, T1, rfl, rfl, hst⟩
  case round =>
    obtain ⟨kk, gt, T2, rfl, rfl, hh⟩ := hrel
    obtain ⟨h3, hw3, hn3, hk3, hK3⟩ := hh.out
    have hwl := hw3.len
    have l1 : (kk : Int) ≤ (put1.size : Int) := by omega
    have hgs : gt.size ≤ 1048580 := by omega
    obtain ⟨hE, n, n1, n2, n3, hPl, hbl, hL, hsz, hcase⟩ := hw3.five h3.ok hn3
    have HC := next_n h3 id 1099511627776 1099511627776 5 hid
    rw [hE, hL, tx_ba] at HC
    have hq : (ba (T2.nextP id 1099511627776 1099511627776 5)).size = n := by rw [ba_size]; exact hPl
    generalize T2.next id 1099511627776 1099511627776 5 = T3 at hbl hcase HC
    generalize ba (T2.nextP id 1099511627776 1099511627776 5) = q at hsz hcase HC hq
    obtain ⟨g2, hg2⟩ : ∃ g2, gt ++ q = g2 := ⟨_, rfl⟩
    rw [hg2] at hsz hcase
    have q1 : 1 ≤ q.size := by omega
    have q2 : q.size ≤ 5 := by omega
    have HK3 : Hid (Kn N w wr) := hK3
    clear hE hL hPl h3 hw3 hh hst hK3
    rcases hcase with ⟨hz0, hgp, his⟩ | ⟨hz1, hw4⟩
    · rw [decide_eq_true hz0] at HC
      subst hgp
      have HC' : Hid (Calls Try.prog 14 #[.pointer (some ⟨p, 0, none⟩), .int .i64 id, .int .i64 1099511627776, .int .i64 1099511627776, .int .i64 5] wr fun e w' => e = .returned (.tuple #[.string q, .bool true, .int .i64 0]) ∧ Sn w' N p T3 ∧ Kn N wr w') := HC
      clear HC hwl hbl hz0 hsz hq n1 n2 n3 hn3 hk3
      go_wp2_with fail
      refine Calls.mono HC'.out ?_
      rintro e w4 ⟨rfl, h4, hK4⟩
      have hE5 : T3.nextE id 1099511627776 1099511627776 5 = 5 := nextE_none (by decide) his
      have hE0 : T3.nextE id 1099511627776 1099511627776 5 ≠ 0 := by rw [hE5]; decide
      go_wp2_with fail
      refine (next_n h4 id 1099511627776 1099511627776 5 hid).mono ?_
      rintro e w5 ⟨rfl, h5, hK5⟩
      rw [next_same hE0] at h5
      rw [nextP_no hE0, nextL_no hE0, hE5]
      go_wp2_with fail
      refine (drop_n h5 id hid).mono ?_
      rintro e w6 ⟨rfl, h6, hK6⟩
      rw [his]
      have h0 : (T3.drop id).putE id = 0 := putE_ok hi (by rw [drop_ov h5.ok, if_pos rfl])
      have hb0 : ((T3.drop id).b id) = [] := by rw [drop_b h5.ok, if_pos rfl]
      go_wp2_with fail
      refine (put_n h6 id ⟨#[120]⟩ false hid (by rw [hb0]; decide)).mono ?_
      rintro e w7 ⟨rfl, h7, hK7⟩
      rw [h0]
      go_wp2_with fail
      go_ret
      exact ⟨rfl, (((HK3.out.trans hK4).trans hK5).trans hK6).trans hK7⟩
    · rw [decide_eq_false (by omega)] at HC
      have HC' : Hid (Calls Try.prog 14 #[.pointer (some ⟨p, 0, none⟩), .int .i64 id, .int .i64 1099511627776, .int .i64 1099511627776, .int .i64 5] wr fun e w' => e = .returned (.tuple #[.string q, .bool false, .int .i64 0]) ∧ Sn w' N p T3 ∧ Kn N wr w') := HC
      have l2 : ¬ (put1.size : Int) ≤ (g2.size : Int) := by omega
      have HF : Hid (1 ≤ (T3.b id).length ∧ (T3.b id).length + (kk + 1) ≤ put1.size) := ⟨by omega, by omega⟩
      clear HC hwl hbl hsz hq n1 n2 n3 hn3 hk3 hz1
      go_wp2_with fail
      refine Calls.mono HC'.out ?_
      rintro e w4 ⟨rfl, h4, hK4⟩
      go_wp2_with fail
      go_roundw
      case rel => exact ⟨kk + 1, g2, T3, rfl, by simp, h4, hw4, HF.out.1, HF.out.2, HK3.out.trans hK4⟩
      case measure => simp [intOf]; omega
end Go.Proofs.Ytbmaknjeflblcaa
