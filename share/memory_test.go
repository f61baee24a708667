package share_test

import (
	"fmt"
	"math"
	"runtime"
	"slices"
	"strings"
	"testing"
	"unsafe"

	"herald/api"
	"herald/lists"
	"herald/share"
)

// watched is the list with room behind it, and a look at whether any of that is as
// it was.
func watched(l []share.Left) ([]share.Left, func() bool) {
	return lists.Watched(l, left(1, 7, 3, 0, least, greatest)...)
}

// TestListsAreNotChanged: neither what is handed in nor the room behind it, whatever
// waits.
func TestListsAreNotChanged(t *testing.T) {
	b := newBoth(t)
	for range 3 {
		for _, l := range all(3, left(3, 1, 1, 0, 1, 1, 9, 5)...) {
			for _, conn := range []int64{-1, 0, 1} {
				given, unchanged := watched(l)
				b.holdReady(t, conn, given)
				if !unchanged() {
					t.Errorf("P20.8: Ready(%d, %s) changed its list or the room behind it", conn, shown(l))
				}
			}
		}
		b.holdPut(t, 3, "abc", false)
		b.holdPut(t, 1, "", true)
		b.holdPut(t, 9, "x", true)
	}
	for _, ids := range all(4, int64(3), 1, least) {
		for _, n := range []int{math.MinInt, -1, 0, 1, 5, math.MaxInt} {
			given, unchanged := lists.Watched(ids, 77, 78)
			want, is := modelPick(ids, n)
			wantPick(t, given, n, want, is)
			if !unchanged() {
				t.Errorf("P20.8: Pick(%v, %d) changed its list or the room behind it", ids, n)
			}
		}
	}
}

// TestListsAreNotKept: what becomes of a list later is nothing to the share.
func TestListsAreNotKept(t *testing.T) {
	b := newBoth(t)
	b.wantPut(t, 1, "a", false, api.OK)
	b.wantPut(t, 3, "b", false, api.OK)
	l := left(1, 5, 3, 5)
	b.wantReady(t, 9, l, 1, 3)
	lists.Scribble(l, share.Left{ID: 3, Left: -1})
	b.wantReady(t, 9, nil)
	b.wantReady(t, 9, left(1, 5), 1)
	b.wantReady(t, 9, l)
	lists.Scribble(l, share.Left{ID: 3, Left: 1})
	b.wantReady(t, 9, l, 3)
}

// TestReadyIsNewMemory: an answer can be written over and made longer without harm
// to another, to the share, or to the list that was handed in.
func TestReadyIsNewMemory(t *testing.T) {
	b := newBoth(t)
	var l []share.Left
	for id := int64(1); id <= 9; id++ {
		b.wantPut(t, id, "text"[:id%3], id%2 == 0, api.OK)
		l = append(l, share.Left{ID: id, Left: 9})
	}
	given, unchanged := watched(l)
	var told, copies [][]int64
	for range 4 {
		for _, conn := range []int64{0, 9} {
			ready := b.holdReady(t, conn, given)
			told, copies = append(told, ready), append(copies, slices.Clone(ready))
		}
	}
	for i := range told {
		whole := told[i][:cap(told[i])]
		lists.Scribble(whole, -7)
		_ = append(told[i], -8, -9)
		for j := i + 1; j < len(told); j++ {
			if !slices.Equal(told[j], copies[j]) {
				t.Fatalf("P20.8: with another answer written over Ready's is %v, was %v", told[j], copies[j])
			}
		}
		b.look(t)
	}
	if !unchanged() {
		t.Error("P20.8: with the answers written over the list is another")
	}
	for range 3 {
		ready := b.holdReady(t, 9, given)
		for _, id := range ready {
			lists.Scribble(ready, id) // the share is asked by its own answer, written over
			b.holdNext(t, id, 9, 9, 1)
		}
	}
	b.empty(t)
}

// borrower lends texts in memory that can be written over.
type borrower struct{ all [][]byte }

func (x *borrower) text(s string) string {
	if s == "" {
		return ""
	}
	b := []byte(s)
	x.all = append(x.all, b)
	return unsafe.String(&b[0], len(b))
}

func (x *borrower) writeOver() {
	for _, b := range x.all {
		lists.Scribble(b, '#')
	}
}

// TestTextsAreNotKept: what waits stands in no memory of a text that was put.
func TestTextsAreNotKept(t *testing.T) {
	for _, texts := range all(3, "a", "bcd", strings.Repeat("long", 100), "") {
		for _, taken := range []int{0, 1, 2, 300} {
			var lent borrower
			b := newBoth(t)
			for i, text := range texts {
				want := b.m.put(3, text, i == 2)
				if e := b.s.Put(3, lent.text(text), i == 2); e != want {
					t.Fatalf("P20.1: Put: %d, want %d", e, want)
				}
				a := b.accounts[3]
				a.put += text
				if i == 2 {
					a.endsPut++
				}
				b.accounts[3] = a
			}
			var before string
			if taken > 0 {
				before, _, _ = b.holdNext(t, 3, greatest, greatest, taken)
			}
			kept := strings.Clone(before)
			lent.writeOver()
			if before != kept {
				t.Error("P20.8: a piece that was told stands in the memory of a text that was put")
			}
			b.empty(t)
		}
	}
}

// TestPiecesStay: what was told is not touched by anything that comes later.
func TestPiecesStay(t *testing.T) {
	b := newBoth(t)
	var told, copies []string
	for i := range 200 {
		b.holdPut(t, 1, strings.Repeat(string([]byte{'a' + byte(i%26)}), i%7), false)
		for range 2 {
			piece, _, _ := b.holdNext(t, 1, 9, 9, i%5+1)
			told, copies = append(told, piece), append(copies, strings.Clone(piece))
		}
		if i%50 == 49 {
			b.holdDrop(t, 1)
		}
	}
	for i := range told {
		if told[i] != copies[i] {
			t.Fatalf("P20.8: the piece number %d is now %q, was %q", i, told[i], copies[i])
		}
	}
}

// TestPiecesAreApart: no two pieces stand in one memory, nor in that of what was put.
func TestPiecesAreApart(t *testing.T) {
	long := strings.Repeat("l", 100)
	seen := map[*byte]bool{}
	for i := range len(long) {
		seen[unsafe.StringData(long[i:])] = true
	}
	for range 2 {
		b := newBoth(t)
		for id := int64(1); id <= 2; id++ {
			b.wantPut(t, id, long, false, api.OK)
			b.wantPut(t, id, long, true, api.OK)
			for range 4 {
				piece, _, _ := b.holdNext(t, id, 99, 99, 50)
				for i := range len(piece) {
					if seen[unsafe.StringData(piece[i:])] {
						t.Fatal("P20.8: a piece has the memory of another text")
					}
				}
				for i := range len(piece) {
					seen[unsafe.StringData(piece[i:])] = true
				}
			}
		}
	}
}

// TestSharesApart: two shares have nothing to do with one another.
func TestSharesApart(t *testing.T) {
	used, other := newBoth(t), newBoth(t)
	used.wantPut(t, 1, "used", true, api.OK)
	other.wantWaits(t, 1, 0, false)
	other.wantReady(t, 9, left(1, 9))
	other.wantPut(t, 1, "other", false, api.OK)
	other.wantPut(t, 1, "", true, api.OK)
	used.wantNext(t, 1, 9, 9, 9, "used", true)
	other.wantNext(t, 1, 9, 9, 2, "ot", false)
	used.wantDrop(t, 1, false)
	other.wantPut(t, 1, "", false, api.ErrState)
	newBoth(t).wantPut(t, 1, "third", false, api.OK)
	other.wantDrop(t, 1, true)
	used.wantPut(t, 1, "again", false, api.OK)
	used.wantWaits(t, 1, 5, false)
	other.wantWaits(t, 1, 0, false)
	used.empty(t)
	other.empty(t)
}

// TestStreamsApart: what is done with one stream is nothing to another.
func TestStreamsApart(t *testing.T) {
	b := newBoth(t)
	b.wantPut(t, 1, "one", false, api.OK)
	b.wantPut(t, 2, "two", false, api.OK)
	b.wantPut(t, 1, "ONE", true, api.OK)
	b.wantNext(t, 2, 9, 9, 1, "t", false)
	b.wantPut(t, 2, "TWO", false, api.OK)
	b.wantNext(t, 1, 9, 9, 4, "oneO", false)
	b.wantDrop(t, 1, true)
	b.wantNext(t, 2, 9, 9, 9, "woTWO", false)
	b.wantPut(t, 2, "!", true, api.OK)
	b.wantPut(t, 1, "", true, api.OK)
	b.wantNext(t, 2, 9, 9, 9, "!", true)
	b.wantWaits(t, 1, 0, true)
	b.wantDrop(t, 2, false)
	b.wantPut(t, 1, "", false, api.ErrState)
	b.empty(t)
}

// TestGoneBytesAreNotKept: what went, or was dropped, isn't kept for nothing.
func TestGoneBytesAreNotKept(t *testing.T) {
	const many, size = 400, 1 << 18
	s := share.New()
	text := strings.Repeat("x", size)
	for id := int64(1); id <= many; id++ {
		s.Put(id, text, id%2 == 0)
		if id%3 == 0 {
			s.Drop(id)
			continue
		}
		if piece, _, e := s.Next(id, size, size, size); len(piece) != size || e != api.OK {
			t.Fatalf("P20.5: Next(%d): %d bytes, %d", id, len(piece), e)
		}
	}
	var m runtime.MemStats
	runtime.GC()
	runtime.ReadMemStats(&m)
	if m.HeapAlloc > many*size/2 {
		t.Errorf("%s are kept though nothing waits", fmt.Sprint(m.HeapAlloc))
	}
	runtime.KeepAlive(s)
}
