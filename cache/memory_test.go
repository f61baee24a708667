package cache_test

import (
	"slices"
	"strings"
	"testing"
	"unsafe"

	"herald/api"
	"herald/cache"
	"herald/lists"
)

// someStored are responses that are kept, and some that are not.
func someStored() []api.Response {
	return []api.Response{
		{}, ok("b"), {Status: 200, Fields: []api.Field{}}, ok("body", "vary", "accept"), ok("", "vary", "Accept, x-3", "a", "1"), ok("b", "vary", "*"), sized(5000),
		{Status: 404, Fields: lists.Filled(lists.Of("vary", "x-2"), 64), Body: "body"}, {Fields: []api.Field{{Name: "a", Value: "1", Never: true}, {}}},
	}
}

func somePromised() []api.Request {
	many := getX("accept", "a")
	many.Fields = lists.Filled(many.Fields, 64)
	return []api.Request{getX(), getX("accept", "a"), getX("b", "1", "accept", "a", "accept", "b"), many, withBody(getX("x-2", "y"), "body")}
}

var over = api.Field{Name: "vary", Value: "over", Never: true}

// watched are a request and a response in lists with room behind them, and a look
// at whether any of that is as it was.
func watched(q api.Request, r api.Response) (api.Request, api.Response, func() bool) {
	var sameRequest, sameResponse func() bool
	q.Fields, sameRequest = lists.Guarded(q.Fields)
	r.Fields, sameResponse = lists.Guarded(r.Fields)
	return q, r, func() bool { return sameRequest() && sameResponse() }
}

// TestHandedInStays: neither fields nor the room behind them is changed, by any
// call, then or later.
func TestHandedInStays(t *testing.T) {
	for _, promised := range somePromised() {
		for _, response := range someStored() {
			q, r, unchanged := watched(promised, response)
			asked, _, askedUnchanged := watched(withBody(promised, ""), api.Response{})
			cache.Size(r)
			b := wantCache(t, 3, 4000, 10)
			b.holdStore(t, q, r, 2, 0)
			b.holdHolds(t, asked, 0)
			b.holdStore(t, q, r, 4, 0)
			given, _, _ := b.holdClaim(t, asked, 0)
			lists.Scribble(given.Fields, over)
			b.holdClaim(t, withBody(asked, "b"), 0)
			b.holdStore(t, getAt("/y"), sized(4000), 6, 0)
			b.holdTick(t, 11)
			if !unchanged() || !askedUnchanged() {
				t.Errorf("P19.6: %s, %s or the room behind them was changed", lists.ShownRequest(promised), lists.ShownResponse(response))
			}
		}
	}
}

// TestHandedInIsNotKept: with the lists written over, the entries are as they were.
func TestHandedInIsNotKept(t *testing.T) {
	for _, promised := range somePromised() {
		for _, response := range someStored() {
			b := wantCache(t, 3, 20000, 10)
			q, r, _ := watched(promised, response)
			kept, _ := b.holdStore(t, q, r, 2, 0)
			lists.Scribble(q.Fields, over)
			lists.Scribble(r.Fields, over)
			asked, _, _ := watched(withBody(promised, ""), api.Response{})
			b.wantHolds(t, asked, 0, kept)
			b.wantHolds(t, withBody(q, ""), 0, b.m.first(withBody(q, "")) != nil)
			lists.Scribble(asked.Fields, over)
			b.look(t, withBody(q, ""))
			if kept {
				b.wantClaim(t, withBody(promised, ""), 0, response, 2)
			}
			b.empty(t)
		}
	}
}

// TestOneListTwice: one list in several entries, and one response in several
// caches, each as it was when it came.
func TestOneListTwice(t *testing.T) {
	q, r := getX("accept", "a"), ok("1", "vary", "accept", "n", "1")
	a, b := wantCache(t, 3, 1000, 10), wantCache(t, 3, 1000, 10)
	a.wantStore(t, q, r, 2, 0, true)
	b.wantStore(t, q, r, 2, 0, true)
	q.Fields[0].Value, r.Fields[1].Value = "b", "2"
	a.wantStore(t, q, r, 4, 0, true)
	q.Fields[0].Name, r.Fields[0].Value = "accept-x", "accept-x"
	b.wantStore(t, q, r, 4, 0, true)
	r.Fields[0].Value = "*"
	a.wantStore(t, q, r, 6, 0, false)
	a.wantClaim(t, getX("accept", "b"), 0, ok("1", "vary", "accept", "n", "2"), 4)
	a.wantClaim(t, getX("accept", "a"), 0, ok("1", "vary", "accept", "n", "1"), 2)
	b.wantClaim(t, getX("accept-x", "b"), 0, ok("1", "vary", "accept-x", "n", "2"), 4)
	b.wantClaim(t, getX("accept", "a"), 0, ok("1", "vary", "accept", "n", "1"), 2)
}

// TestFieldsOfOneList: a request's and a response's fields may be one list, and the
// asked request's too.
func TestFieldsOfOneList(t *testing.T) {
	l := lists.Of("vary", "a", "a", "1", "b", "2")
	b := wantCache(t, 3, 1000, 10)
	q, r := getX(), ok("b")
	q.Fields, r.Fields = l, l
	b.wantStore(t, q, r, 2, 0, true)
	b.wantHolds(t, q, 0, true)
	b.wantClaim(t, q, 0, ok("b", "vary", "a", "a", "1", "b", "2"), 2)
	q.Fields, r.Fields = l[1:2], l[:2]
	b.wantStore(t, q, r, 4, 0, true)
	given, _, _ := b.holdClaim(t, q, 0)
	lists.Scribble(given.Fields, over)
	if !lists.Same(l, lists.Of("vary", "a", "a", "1", "b", "2")) {
		t.Errorf("P19.6: what is given shares memory with what was stored: %s", lists.Shown(l))
	}
}

// TestSpareRoom: what stands behind a list isn't looked at.
func TestSpareRoom(t *testing.T) {
	l := lists.Of("vary", "a", "vary", "*")
	b := wantCache(t, 3, 100, 10)
	b.wantStore(t, getX(), api.Response{Fields: l[:1]}, 2, 0, true)
	b.wantLooks(t, 1, 37)
	q := getX("a", "1")
	q.Fields = q.Fields[:0]
	b.wantGiven(t, q, 0, 2)
	b.wantStore(t, q, api.Response{Fields: l[:1]}, 4, 0, true)
	b.wantNone(t, getX("a", "1"), 0)
	b.wantGiven(t, getX(), 0, 4)
}

// TestGivenIsNew: a response that was given can be written over and made longer,
// without being seen in the cache or in another answer; and nothing is written into
// it later.
func TestGivenIsNew(t *testing.T) {
	for _, response := range someStored() {
		b := wantCache(t, 4, 1<<60, 10)
		for stream := int64(2); stream <= 8; stream += 2 {
			b.holdStore(t, getX("accept", "a"), response, stream, 0)
		}
		if b.c.Len() == 0 {
			continue
		}
		first, _, _ := b.holdClaim(t, getX("accept", "a"), 0)
		second, _, _ := b.holdClaim(t, getX("accept", "a"), 0)
		lists.Scribble(first.Fields, over)
		longer := append(first.Fields, over, over)
		if !lists.SameResponse(second, response) {
			t.Errorf("P19.6: with one answer written over the other is %s, want %s", lists.ShownResponse(second), lists.ShownResponse(response))
		}
		b.look(t)
		for stream := int64(10); stream <= 14; stream += 2 {
			b.holdStore(t, getX("accept", "a"), ok("new", "n", "new", "m", "new"), stream, 0)
		}
		b.wantClaim(t, getX("accept", "a"), 0, response, 8) // 6 went for 14
		for _, f := range longer {
			if f != over {
				t.Errorf("P19.6: a call writes into an earlier answer: %s", lists.Shown(longer))
			}
		}
		if !lists.SameResponse(second, response) {
			t.Errorf("P19.6: a call writes into an earlier answer: %s, want %s", lists.ShownResponse(second), lists.ShownResponse(response))
		}
	}
}

// TestToldIsNew: so can the streams that were told.
func TestToldIsNew(t *testing.T) {
	b := wantCache(t, 64, 64, 10)
	var all, copies [][]int64
	keep := func(l []int64) {
		all, copies = append(all, l), append(copies, slices.Clone(l))
	}
	for i := range int64(300) {
		if i%3 == 0 && len(all) > 0 { // some are written over, and all others stay
			last := len(all) - 1
			lists.Scribble(all[last], -7)
			all[last] = append(all[last], -7, -7, -7)
			copies[last] = slices.Clone(all[last])
		}
		_, told := b.holdStore(t, getX(), sized(int(i*7%20)), 2*i+2, i/4)
		keep(told)
		if i%5 == 0 {
			keep(b.holdTick(t, i/4+3))
		}
		for j := range all {
			if !slices.Equal(all[j], copies[j]) {
				t.Fatalf("P19.6: %s: a list that was told is now %v, was %v", b.history(), all[j], copies[j])
			}
		}
	}
	b.empty(t)
}

// borrower lends texts in memory that can be written over.
type borrower struct{ all [][]byte }

func (x *borrower) text(s string) string {
	if s == "" {
		return ""
	}
	b := []byte(s)
	x.all = append(x.all, b)
	return unsafe.String(&b[0], len(b))
}

func (x *borrower) fields(l []api.Field) []api.Field {
	var lent []api.Field
	for _, f := range l {
		lent = append(lent, api.Field{Name: x.text(f.Name), Value: x.text(f.Value), Never: f.Never})
	}
	return lent
}

func (x *borrower) request(q api.Request) api.Request {
	return api.Request{Method: x.text(q.Method), Scheme: x.text(q.Scheme), Authority: x.text(q.Authority), Path: x.text(q.Path), Fields: x.fields(q.Fields), Body: x.text(q.Body)}
}

func (x *borrower) response(r api.Response) api.Response {
	return api.Response{Status: r.Status, Fields: x.fields(r.Fields), Body: x.text(r.Body)}
}

func (x *borrower) writeOver() {
	for _, b := range x.all {
		lists.Scribble(b, '#')
	}
}

// TestTextsAreNotKept: what a cache keeps stands in no memory of a text that was
// handed in, nor does what it gives.
func TestTextsAreNotKept(t *testing.T) {
	for _, promised := range somePromised() {
		for _, response := range someStored() {
			var lent borrower
			b := wantCache(t, 2, 20000, 10)
			for stream := int64(2); stream <= 4; stream += 2 {
				// The model gets the texts that stay.
				want, _ := b.m.store(promised, response, stream, 0)
				if kept, _ := b.c.Store(lent.request(promised), lent.response(response), stream, 0); kept != want {
					t.Fatalf("P19.1: Store of %s: %v", lists.ShownResponse(response), kept)
				}
				if want {
					b.in[stream]++
				}
			}
			if b.c.Len() == 0 {
				continue
			}
			asked := withBody(promised, "")
			b.m.claim(asked, 0)
			given, _, is := b.c.Claim(lent.request(asked), 0)
			b.out[2]++
			lent.writeOver()
			if !lists.SameResponse(given, response) || !is {
				t.Errorf("P19.6: with the texts written over what was given is %s, want %s", lists.ShownResponse(given), lists.ShownResponse(response))
			}
			b.wantClaim(t, asked, 0, response, 4)
		}
	}
}

// TestTextsAreNotShared: what two entries or two caches have of one response stands
// in memory of its own.
func TestTextsAreNotShared(t *testing.T) {
	long := strings.Repeat("l", 300)
	q, r := getX(long, long), ok(long, long, long, "vary", long)
	seen := map[*byte]bool{unsafe.StringData(long): true}
	for range 2 {
		b := wantCache(t, 2, 1<<60, 10)
		b.wantStore(t, q, r, 2, 0, true)
		b.wantStore(t, q, r, 4, 0, true)
		for range 2 {
			given, _, _ := b.holdClaim(t, q, 0)
			for _, s := range []string{given.Body, given.Fields[0].Name, given.Fields[0].Value, given.Fields[1].Value} {
				if seen[unsafe.StringData(s)] {
					t.Error("P19.6: a text that was given has the memory of another")
				}
				seen[unsafe.StringData(s)] = true
			}
		}
	}
}

// TestCachesApart: caches made alike go their own ways, their clocks too.
func TestCachesApart(t *testing.T) {
	used, other := wantCache(t, 2, 100, 10), wantCache(t, 2, 100, 10)
	used.wantStore(t, getX(), sized(4), 2, 0, true)
	other.wantNone(t, getX(), 0)
	other.wantStore(t, getX(), sized(5), 4, 3, true)
	used.wantTick(t, greatest, 2)
	other.wantLooks(t, 1, 5)
	other.wantHolds(t, getX(), 13, true)
	wantCache(t, 2, 100, 10).wantStore(t, getX(), sized(6), 6, 5, true)
	other.wantGiven(t, getX(), 13, 4)
	used.wantStore(t, getX(), sized(7), 8, 0, true)
	used.wantLooks(t, 1, 7)
	other.wantLooks(t, 0, 0)
}
