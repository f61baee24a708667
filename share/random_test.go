package share_test

import (
	"fmt"
	"math/rand"
	"slices"
	"strings"
	"testing"

	"herald/api"
	"herald/share"
)

func oneOf[T any](r *rand.Rand, l ...T) T { return l[r.Intn(len(l))] }

// script is a share under random calls, of few streams, so that much comes about
// with each.
type script struct {
	*both
	r     *rand.Rand
	ids   []int64
	tried map[string]int // how often each thing came about
}

func newScript(t *testing.T, r *rand.Rand) *script {
	t.Helper()
	ids := []int64{1, 2, 3, 7, lastID - 1, lastID}[:1+r.Intn(6)]
	return &script{both: newBoth(t), r: r, ids: ids, tried: map[string]int{}}
}

func (s *script) id() int64 {
	if s.r.Intn(40) == 0 {
		return oneOf(s.r, edgeIDs()...)
	}
	return oneOf(s.r, s.ids...)
}

func (s *script) window() int64 {
	if s.r.Intn(8) == 0 {
		return oneOf(s.r, windows()...)
	}
	return int64(s.r.Intn(12))
}

func (s *script) frame() int {
	if s.r.Intn(20) == 0 {
		return oneOf(s.r, frames()...)
	}
	return 1 + s.r.Intn(8)
}

func (s *script) text() string {
	if s.r.Intn(5) == 0 {
		return ""
	}
	from := s.r.Intn(26)
	return "abcdefghijklmnopqrstuvwxyz"[from:min(26, from+s.r.Intn(9))]
}

func (s *script) left() []share.Left {
	var l []share.Left
	for range s.r.Intn(2 + 2*len(s.ids)) {
		l = append(l, share.Left{ID: s.id(), Left: s.window()})
	}
	return l
}

func (s *script) step(t *testing.T) {
	t.Helper()
	switch s.r.Intn(12) {
	case 0, 1, 2, 3:
		s.tried[fmt.Sprint("put ", s.holdPut(t, s.id(), s.text(), s.r.Intn(6) == 0))]++
	case 4:
		s.tried[fmt.Sprint("dropped ", s.holdDrop(t, s.id()))]++
	case 5:
		n, end := s.holdWaits(t, s.id())
		s.tried[fmt.Sprint("waits ", n > 0, " ", end)]++
	case 6, 7:
		s.tried[fmt.Sprint("ready ", min(3, len(s.holdReady(t, s.window(), s.left()))))]++
	case 8: // as those above do: what is ready, one picked of it, its next piece
		ready := s.holdReady(t, 9, s.left())
		if id, is := share.Pick(ready, s.r.Int()-s.r.Int()); is {
			s.tried["picked"]++
			if _, _, e := s.holdNext(t, id, 9, 9, 3); e != api.OK || !slices.Contains(ready, id) {
				t.Fatalf("P20.4: %s: of %v was picked %d, and Next answers %d", s.history(), ready, id, e)
			}
		}
	default:
		piece, last, e := s.holdNext(t, s.id(), s.window(), s.window(), s.frame())
		s.tried[fmt.Sprint("next ", piece != "", " ", last, " ", int(e))]++
	}
}

// TestRandomScripts: long lives against the model, all looked at and emptied in the
// end.
func TestRandomScripts(t *testing.T) {
	r := rand.New(rand.NewSource(201))
	tried := map[string]int{}
	for range 1200 {
		s := newScript(t, r)
		for range 100 {
			s.step(t)
		}
		s.empty(t)
		for what, n := range s.tried {
			tried[what] += n
		}
	}
	for _, what := range []string{
		"put " + fmt.Sprint(api.OK), "put " + fmt.Sprint(api.ErrArg), "put " + fmt.Sprint(api.ErrState), "dropped true", "dropped false",
		"waits true true", "waits true false", "waits false true", "waits false false", "ready 0", "ready 1", "ready 2", "ready 3", "picked",
		"next true true 0", "next true false 0", "next false true 0", "next false false 1", "next false false 5", "next false false 6",
	} {
		if tried[what] < 50 {
			t.Errorf("%s %d times: too few to tell", what, tried[what])
		}
	}
}

// TestRandomTurns: two shares in turns, under calls of their own and under the same
// ones, and a third that is never called.
func TestRandomTurns(t *testing.T) {
	r := rand.New(rand.NewSource(202))
	for range 300 {
		still := newBoth(t)
		still.wantPut(t, 1, "still", true, api.OK)
		pair := []*script{newScript(t, r), newScript(t, r)}
		for range 80 {
			pair[r.Intn(2)].step(t)
			if r.Intn(4) == 0 {
				id, text, end := pair[0].id(), pair[0].text(), r.Intn(3) == 0
				pair[0].holdPut(t, id, text, end)
				pair[1].holdPut(t, id, text, end)
			}
		}
		pair[0].look(t)
		pair[1].empty(t)
		pair[0].empty(t)
		still.wantWaits(t, 1, 5, true)
		still.wantNext(t, 1, 9, 9, 9, "still", true)
	}
}

// TestAgainTheSame: the same calls on a new share have the same answers.
func TestAgainTheSame(t *testing.T) {
	var told []string
	for range 3 {
		s := newScript(t, rand.New(rand.NewSource(203)))
		for range 500 {
			s.step(t)
		}
		told = append(told, fmt.Sprint(s.tried, s.accounts))
	}
	if told[0] != told[1] || told[0] != told[2] {
		t.Errorf("R4: the same calls told %s, then %s, then %s", told[0], told[1], told[2])
	}
}

// FuzzCalls: three bytes a call, which one, of which stream, and with what.
func FuzzCalls(f *testing.F) {
	f.Add("\x00\x01\x05\x01\x03\x00\x05\x01\x29\x04\x00\x09\x01\x01\x01\x02\x01\x00")
	f.Add("\x01\x00\x00\x05\x00\x00\x01\x00\x03\x02\x00\x00\x00\x00\x07\x06\x00\x13")
	f.Add("\x00\x05\xff\x03\x05\x00\x05\x05\xff\x05\x05\x7f\x01\x05\x01\x01\x05\x01\x06\x05\x00")
	f.Fuzz(func(t *testing.T, calls string) {
		b := newBoth(t)
		ids := []int64{1, 2, 3, 5, lastID, 0, lastID + 1, 1<<32 + 1}
		for i := 0; i+2 < min(len(calls), 300); i += 3 {
			what, id, of := calls[i], ids[calls[i+1]&7], int(calls[i+2])
			switch what & 7 {
			case 0, 1:
				b.holdPut(t, id, strings.Repeat(string([]byte{'a' + what>>3}), of&15), what&1 > 0)
			case 2:
				b.holdDrop(t, id)
			case 3, 4:
				b.holdReady(t, int64(of&3)-1, left(id, int64(of>>2&3)-1, ids[of&7], int64(of>>4&3)-1, ids[of>>5], 1))
			default:
				b.holdNext(t, id, int64(of&15)-1, int64(of>>4)-1, int(what>>3)-1)
			}
		}
		b.empty(t)
	})
}

// FuzzNext: any text in two parts, and any numbers.
func FuzzNext(f *testing.F) {
	f.Add(int64(1), "hello", "!", true, int64(9), int64(2), 100, 4)
	f.Add(int64(3), "", "", true, int64(0), int64(0), 1, -1)
	f.Add(int64(lastID), "\xff", "é", false, int64(greatest), int64(least), 0, 0)
	f.Fuzz(func(t *testing.T, id int64, first, second string, end bool, conn, stream int64, frame, n int) {
		b := newBoth(t)
		first, second = first[:min(len(first), 300)], second[:min(len(second), 300)] // the model is slow
		b.holdPut(t, id, first, false)
		b.holdNext(t, id, conn, stream, frame)
		b.holdPut(t, id, second, end)
		for range 3 {
			l, unchanged := watched(left(stream, conn, id, stream, id, conn))
			b.holdReady(t, conn, l)
			if !unchanged() {
				t.Errorf("P20.8: Ready(%d, %s) changed its list or the room behind it", conn, shown(l))
			}
			b.holdNext(t, id, conn, stream, frame)
			b.holdNext(t, id, stream, conn, n)
		}
		ids := []int64{id, conn, stream}
		want, is := modelPick(ids, n)
		wantPick(t, ids, n, want, is)
		if b.accounts[id].endsPut == 0 || conn%2 == 0 {
			b.holdDrop(t, id)
			b.holdPut(t, id, second, end)
		}
		b.empty(t)
	})
}
