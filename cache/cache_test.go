package cache_test

import (
	"slices"
	"strings"
	"testing"

	"herald/api"
	"herald/cache"
	"herald/lists"
)

func exampleCache(t *testing.T) *both {
	t.Helper()
	return wantCache(t, 2, 200, 10)
}

func TestExampleOne(t *testing.T) {
	b := exampleCache(t)
	q, r := getX(), ok("body")
	b.wantStore(t, q, r, 2, 5, true)
	b.wantLooks(t, 1, 4)
	b.wantHolds(t, q, 5, true)
	head := q
	head.Method = "HEAD"
	b.wantHolds(t, head, 5, false)
	b.wantClaim(t, q, 15, r, 2)
	b.wantNone(t, q, 15)
}

func TestExampleTwo(t *testing.T) {
	b := exampleCache(t)
	q, r := getX(), ok("body")
	b.wantStore(t, q, r, 2, 5, true)
	b.wantNone(t, q, 16)
	b.wantLooks(t, 1, 4)
	b.wantTick(t, 16, 2)
	b.wantLooks(t, 0, 0)
	b.wantStore(t, q, r, 2, 20, true)
	b.wantTick(t, 7)
	b.wantGiven(t, q, 30, 2)
}

func TestExampleThree(t *testing.T) {
	b := exampleCache(t)
	q, r := getX(), ok("body")
	b.wantStore(t, q, r, 2, 0, true)
	b.wantStore(t, q, r, 4, 0, true)
	b.wantStore(t, q, r, 6, 0, true, 2)
	b.wantClaim(t, q, 0, r, 4)
	b.wantClaim(t, q, 0, r, 6)
	b.wantStore(t, q, sized(201), 8, 0, false)
	b.wantStore(t, q, r, 10, 0, true)
	b.wantStore(t, q, r, 12, 0, true)
	b.wantStore(t, q, sized(201), 14, 0, false)
	b.wantStore(t, q, sized(198), 16, 0, true, 10, 12)
	b.wantLooks(t, 1, 198)
}

func TestExampleFour(t *testing.T) {
	b := exampleCache(t)
	b.wantStore(t, getX(), ok("body", "vary", "*"), 2, 0, false)
	r := ok("body", "vary", "accept")
	wantSize(t, r, 46)
	b.wantStore(t, getX("accept", "a"), r, 4, 0, true)
	b.wantLooks(t, 1, 46)
	for _, l := range [][]string{nil, {"accept", "b"}, {"accept", ""}, {"accept", "a", "accept", "a"}, {"Accept", "a"}, {"accept", "A"}} {
		b.wantNone(t, getX(l...), 0)
	}
	b.wantClaim(t, getX("accept", "a"), 0, r, 4)
	b.wantStore(t, getX("accept", "b"), r, 6, 0, true)
	b.wantNone(t, getX("accept", "a"), 0)
}

func TestExampleFive(t *testing.T) {
	for _, x := range []api.Conf{conf(65, 0, 0), conf(0, -1, 0), conf(0, 0, 1<<60+1)} {
		if c, e := cache.New(x); c != nil || e != api.ErrArg {
			t.Errorf("P19.1: %s: %d, nil %v, want ErrArg", shownConf(x), e, c == nil)
		}
	}
	none := wantCache(t, 0, 200, 10)
	none.wantStore(t, getX(), ok("body"), 2, 0, false)
	none.wantNone(t, getX(), 0)
	b := exampleCache(t)
	b.wantStore(t, getX(), ok("body"), 2, 0, true)
	b.wantNone(t, withBody(getX(), "b"), 0)
	b.wantGiven(t, getX(), 0, 2)
}

// TestNumbers: the error and the limit are those that the document has.
func TestNumbers(t *testing.T) {
	if api.ErrArg != argError || api.MaxEntries != mostEntries {
		t.Error("the error or the limit has another number")
	}
}

// TestOneBound: each bound just right and just not, the others right.
func TestOneBound(t *testing.T) {
	for _, right := range []api.Conf{{}, {Entries: 64, Bytes: 1 << 60, Life: 1 << 60, Pending: 1 << 60}, {Entries: 2, Bytes: 200, Life: 10, Pending: 3}} {
		for i := range 4 {
			most := int64(1 << 60)
			if i == 0 {
				most = 64
			}
			for _, n := range []int64{least, -1 << 60, -65, -1, 0, 1, 63, 64, most - 1, most, most + 1, most + 2, greatest} {
				x := right
				*[]*int64{&x.Entries, &x.Bytes, &x.Life, &x.Pending}[i] = n
				want := api.OK
				if n < 0 || n > most {
					want = api.ErrArg
				}
				if c, e := cache.New(x); e != want || (c == nil) != (want != api.OK) {
					t.Errorf("P19.1: %s: %d, nil %v, want %d", shownConf(x), e, c == nil, want)
				}
				holdNew(t, x)
			}
		}
	}
}

// TestSeveralBounds: all at once, each at its edges.
func TestSeveralBounds(t *testing.T) {
	edges := []int64{least, -1, 0, 64, 65, 1 << 60, 1<<60 + 1, greatest}
	for _, entries := range edges {
		for _, bytes := range edges {
			for _, life := range edges {
				for _, pending := range edges {
					holdNew(t, api.Conf{Entries: entries, Bytes: bytes, Life: life, Pending: pending})
				}
			}
		}
	}
}

// TestPendingIsNotLookedAt: whatever it is, the cache is the same.
func TestPendingIsNotLookedAt(t *testing.T) {
	for _, pending := range []int64{0, 1, 64, 65, 1 << 60} {
		b := holdNew(t, api.Conf{Entries: 2, Bytes: 200, Life: 10, Pending: pending})
		for stream := int64(2); stream <= 8; stream += 2 {
			b.holdStore(t, getX(), ok("body"), stream, 0)
		}
		b.wantLooks(t, 2, 8)
		b.wantGiven(t, getX(), 10, 6)
		b.wantTick(t, 11, 8)
	}
}

func wantSize(t *testing.T, r api.Response, want int64) {
	t.Helper()
	if got := cache.Size(r); got != want || modelSize(r) != want {
		t.Errorf("P19.1: Size(%s) = %d, of the model %d, want %d", lists.ShownResponse(r), got, modelSize(r), want)
	}
}

// TestSize: all bytes of all texts count, and 32 for each field, and nothing else.
func TestSize(t *testing.T) {
	wantSize(t, api.Response{}, 0)
	wantSize(t, api.Response{Status: 599, Fields: []api.Field{}}, 0)
	wantSize(t, ok("b"), 1)
	wantSize(t, ok("", "", ""), 32)
	wantSize(t, ok("", "a", ""), 33)
	wantSize(t, ok("", "", "bc"), 34)
	wantSize(t, ok("", "", "", "", "", "", ""), 96)
	wantSize(t, ok("body", "vary", "accept"), 46)
	wantSize(t, ok("body", "a", "1", "a", "1", "bcd", "22"), 4+34+34+37)
	wantSize(t, ok("\x00\xff\u00e9", "\u00e9", "\xff\xfe\n"), 4+2+3+32)
	wantSize(t, api.Response{Status: -1, Fields: []api.Field{{Name: "a", Value: "b", Never: true}}}, 34)
	wantSize(t, sized(65536), 65536)
	wantSize(t, ok(strings.Repeat("b", 1<<20), "n", strings.Repeat("v", 1<<20)), 1<<21+33)
	spare := lists.Of("a", "1", "b", "2")
	wantSize(t, api.Response{Fields: spare[:1]}, 34)
	for n := range 70 {
		want := int64(0)
		l := lists.Filled(nil, n)
		for _, f := range l {
			want += 32 + int64(len(f.Name+f.Value))
		}
		wantSize(t, api.Response{Fields: l, Body: "bb"}, want+2)
	}
	many := slices.Repeat(lists.Of("n", "v"), 100000)
	wantSize(t, api.Response{Fields: many}, 3400000)
}
