package cache_test

import "testing"

// lives are lengths of life at their edges; arrivals are ticks at which an entry
// comes, some of them so late that its life ends behind the last tick.
var (
	lives    = []int64{0, 1, 2, 10, 1<<60 - 1, 1 << 60}
	arrivals = []int64{0, 1, 5, 1 << 31, 1<<60 - 1, 1 << 60, 1 << 62, greatest - 1<<60 - 1, greatest - 1<<60, greatest - 10, greatest - 2, greatest - 1, greatest}
)

// stored is a cache with one entry, of stream 2, that came at a tick.
func stored(t *testing.T, life, arrival int64) *both {
	t.Helper()
	b := wantCache(t, 2, 100, life)
	b.wantStore(t, getX(), sized(4), 2, arrival, true)
	return b
}

// TestLastTick: at arrival + Life an entry is given and stays, in each call.
func TestLastTick(t *testing.T) {
	for _, life := range lives {
		for _, arrival := range arrivals {
			last := int64(greatest)
			if arrival <= greatest-life {
				last = arrival + life
			}
			for _, tick := range []int64{arrival, arrival + (last-arrival)/2, max(arrival, last-1), last} {
				b := stored(t, life, arrival)
				b.wantHolds(t, getX(), tick, true)
				b.wantTick(t, tick)
				b.wantStore(t, getX(), sized(5), 4, tick, true)
				b.wantStore(t, getX(), sized(101), 6, tick, false)
				b.wantGiven(t, getX(), tick, 2)
				stored(t, life, arrival).wantClaim(t, getX(), tick, sized(4), 2)
				stored(t, life, arrival).wantTick(t, tick)
				stored(t, life, arrival).wantStore(t, getX(), sized(5), 4, tick, true)
			}
		}
	}
}

// TestOneTickLater: it is given no more, lies there till it goes, and Tick or Store
// tells it.
func TestOneTickLater(t *testing.T) {
	for _, life := range lives {
		for _, arrival := range arrivals {
			if arrival >= greatest-life {
				continue
			}
			late := arrival + life + 1
			for _, tick := range []int64{late, late + (greatest-late)/2, greatest} {
				b := stored(t, life, arrival)
				b.wantNone(t, getX(), tick)
				b.wantLooks(t, 1, 4)
				b.wantTick(t, tick, 2)
				b.wantLooks(t, 0, 0)
				b.wantTick(t, tick)
				b = stored(t, life, arrival)
				b.wantHolds(t, getX(), tick, false)
				b.wantLooks(t, 1, 4)
				b.wantStore(t, getX(), sized(5), 4, tick, true, 2)
				b.wantGiven(t, getX(), tick, 4)
				stored(t, life, arrival).wantTick(t, tick, 2)
				stored(t, life, arrival).wantStore(t, getX(), sized(5), 4, tick, true, 2)
				stored(t, life, arrival).wantStore(t, getX(), sized(101), 4, tick, false, 2)
			}
		}
	}
}

// TestNeverExpires: behind the last tick there is none.
func TestNeverExpires(t *testing.T) {
	for _, life := range lives {
		b := stored(t, life, greatest-life)
		b.wantTick(t, greatest)
		b.wantStore(t, getX(), sized(5), 4, greatest, true)
		b.wantTick(t, greatest)
		b.wantGiven(t, getX(), greatest, 2)
		b.wantGiven(t, getX(), least, 4)
	}
}

// TestBack: ticks that go back move nothing, neither the clock nor an arrival.
func TestBack(t *testing.T) {
	for _, back := range []int64{19, 10, 9, 1, 0, -1, -20, -1 << 60, least + 1, least} {
		b := stored(t, 10, 20)
		b.wantTick(t, back)
		b.wantHolds(t, getX(), back, true)
		b.wantStore(t, getAt("/y"), sized(5), 4, back, true) // it comes at 20, too
		b.wantTick(t, 30)
		b.wantHolds(t, getX(), back, true)
		b.wantHolds(t, getAt("/y"), back, true)
		b.wantTick(t, 31, 2, 4)

		b = stored(t, 10, 20)
		b.wantHolds(t, getX(), 31, false)
		b.wantNone(t, getX(), back)
		b.wantNone(t, getX(), 20)
		b.wantTick(t, back, 2)

		b = stored(t, 10, 20)
		b.wantTick(t, 25)
		b.wantStore(t, getAt("/y"), sized(5), 4, back, true)
		b.wantTick(t, 31, 2)
		b.wantTick(t, 35)
		b.wantGiven(t, getAt("/y"), back, 4)
	}
}

// TestBelowZero: the clock begins at 0, and what comes at a tick below comes at 0.
func TestBelowZero(t *testing.T) {
	for _, below := range []int64{-1, -2, -1 << 60, least + 1, least} {
		for _, life := range lives {
			b := wantCache(t, 2, 100, life)
			b.wantTick(t, below)
			b.wantNone(t, getX(), below)
			b.wantStore(t, getX(), sized(4), 2, below, true)
			b.wantTick(t, below)
			b.wantTick(t, life)
			b.wantHolds(t, getX(), life, true)
			b.wantTick(t, life+1, 2)
		}
	}
}

// TestEveryCallHears: each call moves the clock, whatever else it does, and no look
// does.
func TestEveryCallHears(t *testing.T) {
	for _, call := range []struct {
		name string
		do   func(b *both, tick int64)
	}{
		{"Claim of nothing", func(b *both, tick int64) { b.holdClaim(t, getAt("/none"), tick) }},
		{"Claim with a body", func(b *both, tick int64) { b.holdClaim(t, withBody(getX(), "b"), tick) }},
		{"Claim", func(b *both, tick int64) { b.holdClaim(t, getAt("/y"), tick) }},
		{"Holds of nothing", func(b *both, tick int64) { b.holdHolds(t, getAt("/none"), tick) }},
		{"Holds with a body", func(b *both, tick int64) { b.holdHolds(t, withBody(getX(), "b"), tick) }},
		{"Holds", func(b *both, tick int64) { b.holdHolds(t, getX(), tick) }},
		{"Store", func(b *both, tick int64) { b.holdStore(t, getAt("/z"), sized(1), 6, tick) }},
		{"Store of a star", func(b *both, tick int64) { b.holdStore(t, getAt("/z"), ok("", "vary", "*"), 6, tick) }},
		{"Store of too much", func(b *both, tick int64) { b.holdStore(t, getAt("/z"), sized(101), 6, tick) }},
		{"Tick", func(b *both, tick int64) { b.holdTick(t, tick) }},
	} {
		filled := func() *both {
			b := wantCache(t, 3, 100, 10)
			b.wantStore(t, getX(), sized(4), 2, 5, true)
			b.wantStore(t, getAt("/y"), sized(5), 4, 6, true)
			return b
		}
		b := filled()
		call.do(b, 15)
		b.wantHolds(t, getX(), 0, true)
		b = filled()
		call.do(b, 16)
		b.wantHolds(t, getX(), 0, false)
		b.wantStore(t, getX(), sized(7), 8, 0, true, b.expired()...)
		b.wantHolds(t, getX(), 26, true)
		b.wantHolds(t, getX(), 27, false)
		if t.Failed() {
			t.Fatalf("P19.5: %s doesn't tell the clock", call.name)
		}
	}
	none := wantCache(t, 0, 100, 10)
	none.wantStore(t, getX(), sized(4), 2, 50, false)
	none.wantTick(t, 0)
	b := stored(t, 0, 3)
	for range 100 {
		b.wantLooks(t, 1, 4)
	}
	b.wantGiven(t, getX(), 3, 2)
}

// expired are the streams of those that a Store would let go for their age.
func (b *both) expired() []int64 {
	var l []int64
	for _, k := range b.m.entries() {
		if b.m.isExpired(k) {
			l = append(l, k.stream)
		}
	}
	return l
}

// TestExpiredOnesLie: they count in Len and Bytes till they go, answer nothing, and
// a younger one answers behind them.
func TestExpiredOnesLie(t *testing.T) {
	b := wantCache(t, 4, 100, 10)
	for i, tick := range []int64{0, 0, 5, 9} {
		b.wantStore(t, getX(), sized(10*i+10), int64(2*i+2), tick, true)
	}
	b.wantLooks(t, 4, 100)
	b.wantGiven(t, getX(), 11, 6)
	b.wantLooks(t, 3, 70)
	b.wantGiven(t, getX(), 19, 8)
	b.wantLooks(t, 2, 30)
	b.wantNone(t, getX(), 19)
	b.wantTick(t, 0, 2, 4)
	b.wantLooks(t, 0, 0)
}

// TestTickTellsInOrder: just the expired ones go, the oldest first, each once.
func TestTickTellsInOrder(t *testing.T) {
	b := wantCache(t, 64, 1<<60, 100)
	for i := range int64(64) {
		b.wantStore(t, getX(), sized(1), 2*(i*37%64)+2, i/3, true)
	}
	told := 0
	for tick := int64(99); tick <= 123; tick++ {
		for _, stream := range b.holdTick(t, tick) {
			if want := int64(2*(told*37%64) + 2); stream != want || int64(told)/3+101 != tick {
				t.Errorf("P19.5: %s tells %d, want %d", b.history(), stream, want)
			}
			told++
		}
		b.wantTick(t, tick)
		b.wantTick(t, 0)
	}
	if told != 64 || b.c.Len() != 0 {
		t.Errorf("P19.5: of 64 entries %d were told, %d are left", told, b.c.Len())
	}
}
