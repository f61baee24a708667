package share_test

import (
	"strings"
	"testing"

	"herald/api"
)

func isID(id int64) bool { return id >= 1 && id <= lastID }

// TestEdgeIDs: every call at every edge of the numbers, with and without an end.
func TestEdgeIDs(t *testing.T) {
	for _, id := range edgeIDs() {
		for _, text := range []string{"", "t", "text"} {
			for _, end := range []bool{false, true} {
				b := newBoth(t)
				b.wantPut(t, 7, "seven", false, api.OK)
				if !isID(id) {
					b.wantPut(t, id, text, end, api.ErrArg)
					b.wantWaits(t, id, 0, false)
					b.wantReady(t, 9, left(id, 9, 7, 9), 7)
					b.wantNo(t, id, 9, 9, 9, api.ErrNone)
					b.wantDrop(t, id, false)
					b.wantPut(t, id, text, end, api.ErrArg)
				} else {
					b.wantPut(t, id, text, end, api.OK)
					b.wantWaits(t, id, len(text), end)
					b.wantDrop(t, id, text != "" || end)
					b.wantPut(t, id, text, end, api.OK)
				}
				b.wantWaits(t, 7, 5, false)
				b.empty(t)
			}
		}
	}
}

// TestNumbersThatFold: numbers that are alike in their lower bits are not one stream.
func TestNumbersThatFold(t *testing.T) {
	b := newBoth(t)
	b.wantPut(t, 1, "one", true, api.OK)
	for _, id := range []int64{1 + 1<<32, 1 + 1<<31, 1 - 1<<31, 1 - 1<<32, 1 + 1<<62, least + 1} {
		b.wantPut(t, id, "x", false, api.ErrArg)
		b.wantWaits(t, id, 0, false)
		b.wantReady(t, 9, left(id, 9))
		b.wantNo(t, id, 9, 9, 9, api.ErrNone)
		b.wantDrop(t, id, false)
	}
	b.wantWaits(t, 1, 3, true)
	b.empty(t)
}

// TestArgAheadOfState: a number that can't be a stream is told first, whatever waits.
func TestArgAheadOfState(t *testing.T) {
	b := newBoth(t)
	b.wantPut(t, 1, "", true, api.OK)
	b.wantPut(t, lastID, "", true, api.OK)
	for _, id := range edgeIDs() {
		want := api.ErrArg
		if id == 1 || id == lastID {
			want = api.ErrState
		} else if isID(id) {
			want = api.OK
		}
		b.wantPut(t, id, "x", true, want)
	}
	b.empty(t)
}

// TestEmptyText: without an end nothing waits of it, however often.
func TestEmptyText(t *testing.T) {
	b := newBoth(t)
	for range 5 {
		b.wantPut(t, 1, "", false, api.OK)
		b.wantWaits(t, 1, 0, false)
		b.wantReady(t, 9, left(1, 9))
		b.wantNo(t, 1, 9, 9, 9, api.ErrNone)
	}
	b.wantDrop(t, 1, false)
	b.wantPut(t, 1, "", false, api.OK)
	b.wantPut(t, 1, "", true, api.OK)
	b.wantWaits(t, 1, 0, true)
	b.wantReady(t, 0, nil, 1)
	b.wantPut(t, 1, "", true, api.ErrState)
	b.wantPut(t, 1, "x", false, api.ErrState)
	b.wantWaits(t, 1, 0, true)
	b.wantNext(t, 1, 0, 0, 1, "", true)
	b.wantNo(t, 1, 9, 9, 9, api.ErrNone)
	b.empty(t)
}

// TestBehindOneAnother: texts wait in the order in which they were put, empty ones
// among them.
func TestBehindOneAnother(t *testing.T) {
	for _, texts := range all(4, "", "a", "bc", "def") {
		for _, end := range []bool{false, true} {
			whole := strings.Join(texts, "")
			b := newBoth(t)
			for i, text := range texts {
				b.wantPut(t, 5, text, end && i == len(texts)-1, api.OK)
			}
			end := end && len(texts) > 0
			b.wantWaits(t, 5, len(whole), end)
			if whole == "" && !end {
				b.wantNo(t, 5, 99, 99, 99, api.ErrNone)
			} else {
				b.wantNext(t, 5, 99, 99, 99, whole, end)
			}
			b.wantWaits(t, 5, 0, false)
			b.wantNo(t, 5, 99, 99, 99, api.ErrNone)
			b.empty(t)
		}
	}
}

// TestBehindTheEnd: nothing can be put, whether all, some or none of it is gone.
func TestBehindTheEnd(t *testing.T) {
	for gone := range 5 {
		b := newBoth(t)
		b.wantPut(t, 1, "abc", true, api.OK)
		for i := range gone {
			if i < 3 {
				b.wantNext(t, 1, 9, 9, 1, "abc"[i:i+1], i == 2)
			} else {
				b.wantNo(t, 1, 9, 9, 1, api.ErrNone)
			}
		}
		for range 2 {
			for _, text := range []string{"", "x", "xyz"} {
				b.wantPut(t, 1, text, false, api.ErrState)
				b.wantPut(t, 1, text, true, api.ErrState)
			}
			b.wantWaits(t, 1, max(0, 3-gone), gone < 3)
			b.look(t)
		}
		b.wantPut(t, 3, "x", true, api.OK) // another isn't over
		b.wantDrop(t, 1, gone < 3)
		b.wantPut(t, 1, "again", false, api.OK)
		b.wantWaits(t, 1, 5, false)
		b.wantPut(t, 1, "", true, api.OK)
		b.wantPut(t, 1, "", true, api.ErrState)
		b.wantNext(t, 1, 9, 9, 9, "again", true)
		b.empty(t)
	}
}

// TestBehindAllThatIsGone: a stream without its end goes on, though nothing waits.
func TestBehindAllThatIsGone(t *testing.T) {
	b := newBoth(t)
	for range 3 {
		b.wantPut(t, 1, "abc", false, api.OK)
		b.wantNext(t, 1, 9, 9, 2, "ab", false)
		b.wantNext(t, 1, 9, 9, 2, "c", false)
		b.wantNo(t, 1, 9, 9, 2, api.ErrNone)
		b.wantWaits(t, 1, 0, false)
	}
	b.wantPut(t, 1, "", true, api.OK)
	b.wantNext(t, 1, 0, -1, 2, "", true)
	b.wantPut(t, 1, "", false, api.ErrState)
	b.empty(t)
}

// TestDrop: whatever waits of a stream goes, and it can be begun anew.
func TestDrop(t *testing.T) {
	for _, c := range []struct {
		name string
		do   func(b *both)
		want bool
	}{
		{"nothing", func(b *both) {}, false},
		{"an empty text", func(b *both) { b.wantPut(t, 1, "", false, api.OK) }, false},
		{"bytes", func(b *both) { b.wantPut(t, 1, "abc", false, api.OK) }, true},
		{"one byte", func(b *both) { b.wantPut(t, 1, "a", false, api.OK) }, true},
		{"an end alone", func(b *both) { b.wantPut(t, 1, "", true, api.OK) }, true},
		{"bytes and the end", func(b *both) { b.wantPut(t, 1, "abc", true, api.OK) }, true},
		{"some bytes, others gone", func(b *both) {
			b.wantPut(t, 1, "abc", false, api.OK)
			b.wantNext(t, 1, 9, 9, 2, "ab", false)
		}, true},
		{"some bytes and the end, others gone", func(b *both) {
			b.wantPut(t, 1, "abc", true, api.OK)
			b.wantNext(t, 1, 9, 9, 2, "ab", false)
		}, true},
		{"an end alone, all bytes gone", func(b *both) {
			b.wantPut(t, 1, "abc", false, api.OK)
			b.wantNext(t, 1, 9, 9, 3, "abc", false)
			b.wantPut(t, 1, "", true, api.OK)
		}, true},
		{"all bytes gone", func(b *both) {
			b.wantPut(t, 1, "abc", false, api.OK)
			b.wantNext(t, 1, 9, 9, 3, "abc", false)
		}, false},
		{"over, all gone", func(b *both) {
			b.wantPut(t, 1, "abc", true, api.OK)
			b.wantNext(t, 1, 9, 9, 3, "abc", true)
		}, false},
		{"over, the end gone", func(b *both) {
			b.wantPut(t, 1, "", true, api.OK)
			b.wantNext(t, 1, 0, 0, 1, "", true)
		}, false},
	} {
		for _, text := range []string{"", "new"} {
			for _, end := range []bool{false, true} {
				b := newBoth(t)
				b.wantPut(t, 3, "other", true, api.OK)
				c.do(b)
				b.wantDrop(t, 1, c.want)
				b.wantWaits(t, 1, 0, false)
				b.wantReady(t, 9, left(1, 9, 3, 9), 3)
				b.wantNo(t, 1, 9, 9, 9, api.ErrNone)
				b.wantDrop(t, 1, false)
				b.look(t)
				b.wantPut(t, 1, text, end, api.OK)
				b.wantWaits(t, 1, len(text), end)
				b.wantWaits(t, 3, 5, true)
				b.wantPut(t, 3, "", false, api.ErrState)
				b.empty(t)
				if t.Failed() {
					t.Fatalf("P20.2: Drop where there was %s", c.name)
				}
			}
		}
	}
}

// TestDropOfAnother: what isn't dropped stays, over or not.
func TestDropOfAnother(t *testing.T) {
	b := newBoth(t)
	for id := int64(1); id <= 40; id++ {
		b.wantPut(t, id, strings.Repeat("x", int(id%5)), id%2 == 0, api.OK)
	}
	for id := int64(3); id <= 60; id += 3 {
		b.wantDrop(t, id, id <= 40 && (id%5 > 0 || id%2 == 0))
	}
	for id := int64(1); id <= 40; id++ {
		if id%3 == 0 {
			b.wantWaits(t, id, 0, false)
			continue
		}
		b.wantWaits(t, id, int(id%5), id%2 == 0)
		want := api.OK
		if id%2 == 0 {
			want = api.ErrState
		}
		b.wantPut(t, id, "", false, want)
	}
	b.empty(t)
}

// TestShortLives: every order of four calls out of some, of one stream.
func TestShortLives(t *testing.T) {
	calls := []func(b *both){
		func(b *both) { b.holdPut(t, 1, "", false) },
		func(b *both) { b.holdPut(t, 1, "", true) },
		func(b *both) { b.holdPut(t, 1, "ab", false) },
		func(b *both) { b.holdPut(t, 1, "cd", true) },
		func(b *both) { b.holdDrop(t, 1) },
		func(b *both) { b.holdNext(t, 1, 9, 9, 1) },
		func(b *both) { b.holdNext(t, 1, 9, 9, 9) },
		func(b *both) { b.holdNext(t, 1, 9, 0, 9) },
		func(b *both) { b.holdPut(t, 2, "x", true) },
		func(b *both) { b.holdNext(t, 2, 9, 9, 9) },
	}
	for _, order := range all(4, calls...) {
		b := newBoth(t)
		for _, call := range order {
			call(b)
			b.holdReady(t, 1, left(1, 1, 2, 1))
			b.holdReady(t, 0, nil)
		}
		b.empty(t)
	}
}
