package cache_test

import (
	"slices"
	"strings"
	"testing"

	"herald/api"
	"herald/lists"
)

// fill stores responses of these sizes, at one tick, on the streams 2, 4, ..
func (b *both) fill(t *testing.T, tick int64, sizes ...int) {
	t.Helper()
	for _, n := range sizes {
		b.wantStore(t, getX(), sized(n), int64(2*len(b.m.all)+2), tick, true)
	}
}

// TestBoundOfOne: a size just at the bound is kept, one above is not, whatever it
// is that makes the size.
func TestBoundOfOne(t *testing.T) {
	for _, r := range []api.Response{
		{}, ok("b"), sized(200), sized(65536), ok("", "", ""), ok("", "x", ""), ok("", "", "y"), ok("b", "x", "y"), ok("body", "vary", "accept"),
		ok("", "a", "1", "b", "2"), {Status: 1, Fields: lists.Filled(nil, 64), Body: "b"}, {Fields: []api.Field{{Name: "a", Value: "b", Never: true}}},
	} {
		size := modelSize(r)
		for _, bytes := range []int64{size, size + 1, 2*size + 1, 1 << 60} {
			b := wantCache(t, 1, bytes, 10)
			b.wantStore(t, getX(), r, 2, 0, true)
			b.wantLooks(t, 1, size)
			b.wantClaim(t, getX(), 0, r, 2)
		}
		if size > 0 {
			b := wantCache(t, 1, size-1, 10)
			b.wantStore(t, getX(), r, 2, 0, false)
			b.wantLooks(t, 0, 0)
			b.wantNone(t, getX(), 0)
		}
	}
}

// TestRefused: what isn't kept lets nothing go, and leaves all as it was.
func TestRefused(t *testing.T) {
	for _, r := range []api.Response{
		sized(101), sized(65536), ok(strings.Repeat("b", 69), "", ""), ok("", strings.Repeat("n", 69), ""), ok("", "", strings.Repeat("v", 69)), ok("", "", "", "", "", "", "", "", ""),
		ok("", "vary", "*"), ok("b", "vary", "a, *"), ok("", "vary", " *\t"), ok("", "vary", ",*,"), ok("", "vary", "a", "vary", "*"), ok(strings.Repeat("b", 200), "vary", "*"),
	} {
		b := wantCache(t, 2, 100, 10)
		b.wantStore(t, getX(), r, 2, 0, false)
		b.wantLooks(t, 0, 0)
		b.fill(t, 0, 50, 50)
		b.wantStore(t, getX(), r, 6, 10, false)
		b.wantLooks(t, 2, 100)
		b.wantGiven(t, getX(), 10, 2)
		b.wantStore(t, getX(), r, 8, 10, false)
		b.wantGiven(t, getX(), 10, 4)
		b.wantNone(t, getX(), 10)
	}
}

// TestNoStar: a star that is a name's part, or another field's, is none.
func TestNoStar(t *testing.T) {
	for _, l := range [][]string{{"Vary", "*"}, {"vary", "**"}, {"vary", "* *"}, {"vary", "a*"}, {"x-vary", "*"}, {"*", "vary"}, {"vary", "\v*"}, {"vary", ""}, {"", "*"}} {
		b := wantCache(t, 1, 100, 10)
		b.wantStore(t, getX(), ok("b", l...), 2, 0, true)
		b.wantClaim(t, getX(), 0, ok("b", l...), 2)
	}
	b := wantCache(t, 1, 100, 10)
	b.wantStore(t, getX("vary", "*"), ok("b"), 2, 0, true)
	b.wantGiven(t, getX("vary", "*"), 0, 2)
}

// TestRefusedAndExpired: the expired ones go out although nothing is kept, and
// nothing else does.
func TestRefusedAndExpired(t *testing.T) {
	for _, r := range []api.Response{sized(101), ok("", "vary", "*"), ok(strings.Repeat("b", 101), "vary", "*")} {
		b := wantCache(t, 4, 100, 10)
		b.fill(t, 0, 10, 20)
		b.fill(t, 3, 30, 40)
		b.wantStore(t, getX(), r, 10, 10, false)
		b.wantLooks(t, 4, 100)
		b.wantStore(t, getX(), r, 12, 11, false, 2, 4)
		b.wantLooks(t, 2, 70)
		b.wantStore(t, getX(), r, 14, 13, false)
		b.wantStore(t, getX(), r, 16, 14, false, 6, 8)
		b.wantLooks(t, 0, 0)
		b.wantStore(t, getX(), r, 18, 100, false)
	}
}

// TestNoEntries: with Entries 0 nothing is kept, not even what has no bytes.
func TestNoEntries(t *testing.T) {
	for _, bytes := range []int64{0, 1, 1 << 60} {
		for _, life := range []int64{0, 1 << 60} {
			b := wantCache(t, 0, bytes, life)
			for _, r := range []api.Response{{}, ok("b"), ok("", "vary", "*")} {
				b.wantStore(t, getX(), r, 2, 0, false)
				b.wantLooks(t, 0, 0)
				b.wantNone(t, getX(), 0)
				b.wantTick(t, greatest)
			}
		}
	}
}

// TestNoBytes: with Bytes 0 just that is kept which has no size.
func TestNoBytes(t *testing.T) {
	b := wantCache(t, 2, 0, 10)
	b.wantStore(t, getX(), ok("b"), 2, 0, false)
	b.wantStore(t, getX(), ok("", "", ""), 4, 0, false)
	b.wantStore(t, getX(), ok(""), 6, 0, true)
	b.wantStore(t, getX(), api.Response{}, 8, 0, true)
	b.wantStore(t, getX(), ok("b"), 10, 0, false)
	b.wantStore(t, getX(), ok(""), 12, 0, true, 6)
	b.wantLooks(t, 2, 0)
	b.wantClaim(t, getX(), 0, api.Response{}, 8)
	b.wantClaim(t, getX(), 0, ok(""), 12)
}

// TestRoomInNumber: of as many entries as there may be the oldest goes, each time.
func TestRoomInNumber(t *testing.T) {
	for _, most := range []int{1, 2, 3, 63, 64} {
		b := wantCache(t, int64(most), 1<<60, 10)
		b.fill(t, 0, slices.Repeat([]int{1}, most)...)
		b.wantLooks(t, most, int64(most))
		for i := range 2*most + 3 {
			b.wantStore(t, getX(), sized(1), int64(2*(most+i)+2), int64(i)/1000, true, int64(2*i+2))
			b.wantLooks(t, most, int64(most))
		}
		b.empty(t)
	}
}

// TestRoomInBytes: no more go than must, and all if need be.
func TestRoomInBytes(t *testing.T) {
	for size := range 101 {
		var want []int64
		for i, most := range []int{10, 15, 35, 75} { // with none, one, two, three of them gone
			if size > most {
				want = append(want, int64(2*i+2))
			}
		}
		b := wantCache(t, 60, 100, 10)
		b.fill(t, 0, 5, 20, 40, 25)
		b.wantLooks(t, 4, 90)
		b.wantStore(t, getX(), sized(size), 10, 0, true, want...)
		b.empty(t)
	}
}

// TestRoomInBoth: those that go for the number's sake count for the bytes, and the
// other way about.
func TestRoomInBoth(t *testing.T) {
	b := wantCache(t, 3, 100, 10)
	b.fill(t, 0, 50, 30, 20)
	b.wantStore(t, getX(), sized(50), 8, 0, true, 2) // one goes for both
	b.wantStore(t, getX(), sized(31), 10, 0, true, 4, 6)
	b.wantLooks(t, 2, 81)
	b.wantStore(t, getX(), sized(19), 12, 0, true)
	b.wantStore(t, getX(), sized(0), 14, 0, true, 8) // for the number alone
	b.wantStore(t, getX(), sized(82), 16, 0, true, 10, 12)
	b.wantLooks(t, 2, 82)
	b.wantStore(t, getX(), sized(18), 18, 0, true)
	b.wantStore(t, getX(), sized(100), 20, 0, true, 14, 16, 18)
	b.wantStore(t, getX(), sized(0), 22, 0, true)
	b.wantStore(t, getX(), sized(100), 24, 0, true, 20)
	b.wantLooks(t, 2, 100)
	b.empty(t)
}

// TestExpiredAheadOfRoom: the expired ones are told first, and make room too.
func TestExpiredAheadOfRoom(t *testing.T) {
	filled := func() *both {
		b := wantCache(t, 4, 100, 10)
		b.fill(t, 0, 10)
		b.fill(t, 1, 20)
		b.fill(t, 2, 30, 40)
		return b
	}
	for _, c := range []struct {
		size int
		tick int64
		want []int64
	}{
		{0, 10, []int64{2}}, {11, 10, []int64{2, 4}}, {100, 10, []int64{2, 4, 6, 8}},
		{0, 11, []int64{2}}, {10, 11, []int64{2}}, {11, 11, []int64{2, 4}}, {31, 11, []int64{2, 4, 6}},
		{30, 12, []int64{2, 4}}, {31, 12, []int64{2, 4, 6}}, {60, 12, []int64{2, 4, 6}}, {61, 12, []int64{2, 4, 6, 8}},
		{0, 13, []int64{2, 4, 6, 8}}, {100, 1000, []int64{2, 4, 6, 8}},
	} {
		b := filled()
		b.wantStore(t, getX(), sized(c.size), 10, c.tick, true, c.want...)
		b.empty(t)
	}
}

// TestSmallStores: every cache of few entries and bytes, under every four stores.
func TestSmallStores(t *testing.T) {
	const sizes, times = 6, 4
	for entries := int64(0); entries <= 3; entries++ {
		for bytes := int64(0); bytes <= 5; bytes++ {
			for order := range sizes * sizes * sizes * sizes {
				b := wantCache(t, entries, bytes, 2)
				for i := range int64(times) {
					b.holdStore(t, getX(), sized(order%sizes), 2*i+2, i)
					order /= sizes
				}
			}
		}
	}
}

// TestStreamsAsTheyCome: a stream's number is told as it was handed in, whatever it
// is, and two entries may have the same.
func TestStreamsAsTheyCome(t *testing.T) {
	for _, stream := range []int64{least, -2, -1, 0, 1, 2, 1 << 31, greatest} {
		b := wantCache(t, 2, 100, 10)
		b.wantStore(t, getX(), sized(1), stream, 0, true)
		b.wantStore(t, getX(), sized(2), stream, 0, true)
		b.wantStore(t, getX(), sized(3), 4, 0, true, stream)
		b.wantClaim(t, getX(), 0, sized(2), stream)
		b.wantStore(t, getX(), sized(4), stream, 1, true)
		b.wantTick(t, 12, 4, stream)
	}
}

// TestAgain: what was refused, given or gone can be stored anew.
func TestAgain(t *testing.T) {
	b := wantCache(t, 1, 100, 10)
	q, r := getX(), sized(60)
	b.wantStore(t, q, ok("", "vary", "*"), 2, 0, false)
	for tick := int64(0); tick < 60; tick += 20 {
		b.wantStore(t, q, r, 2, tick, true)
		b.wantStore(t, q, r, 2, tick, true, 2)
		b.wantClaim(t, q, tick+10, r, 2)
		b.wantStore(t, q, r, 2, tick+10, true)
		b.wantClaim(t, q, tick+10, r, 2)
		b.wantLooks(t, 0, 0)
	}
}
