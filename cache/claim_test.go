package cache_test

import (
	"slices"
	"strconv"
	"strings"
	"testing"

	"herald/api"
	"herald/lists"
)

// TestOldestFirst: of several that answer the oldest is given, and each once.
func TestOldestFirst(t *testing.T) {
	b := wantCache(t, 64, 1<<60, 10)
	for i := range int64(64) {
		b.wantStore(t, getX(), ok(strconv.Itoa(int(i))), 200-2*i, i/10, true)
	}
	for i := range int64(64) {
		b.wantClaim(t, getX(), 8, ok(strconv.Itoa(int(i))), 200-2*i)
	}
	b.wantNone(t, getX(), 8)
	b.wantLooks(t, 0, 0)
}

// TestInTheMiddle: what is given out of the middle leaves the others in their order.
func TestInTheMiddle(t *testing.T) {
	paths := []string{"/a", "/b", "/a", "/c", "/b", "/a", "/d"}
	for _, c := range []struct {
		asked string
		want  []int64
		left  []int64 // in the order in which they go
	}{
		{"/a", []int64{2, 6, 12}, []int64{4, 8, 10, 14}},
		{"/b", []int64{4, 10}, []int64{2, 6, 8, 12, 14}},
		{"/c", []int64{8}, []int64{2, 4, 6, 10, 12, 14}},
		{"/d", []int64{14}, []int64{2, 4, 6, 8, 10, 12}},
		{"/e", nil, []int64{2, 4, 6, 8, 10, 12, 14}},
	} {
		b := wantCache(t, 7, 1<<60, 10)
		for i, path := range paths {
			b.wantStore(t, getAt(path), ok(path, "n", strconv.Itoa(i)), int64(2*i+2), 0, true)
		}
		for _, stream := range c.want {
			b.wantClaim(t, getAt(c.asked), 0, ok(c.asked, "n", strconv.Itoa(int(stream)/2-1)), stream)
		}
		b.wantNone(t, getAt(c.asked), 0)
		b.look(t)
		b.wantTick(t, 11, c.left...)
	}
}

// TestGivenMakesRoom: what was given counts no more, and what comes lies behind all.
func TestGivenMakesRoom(t *testing.T) {
	b := wantCache(t, 3, 100, 10)
	b.wantStore(t, getAt("/a"), sized(10), 2, 0, true)
	b.wantStore(t, getAt("/b"), sized(40), 4, 0, true)
	b.wantStore(t, getAt("/c"), sized(50), 6, 0, true)
	b.wantGiven(t, getAt("/b"), 0, 4)
	b.wantLooks(t, 2, 60)
	b.wantStore(t, getAt("/b"), sized(40), 8, 0, true)
	b.wantStore(t, getAt("/b"), sized(1), 10, 0, true, 2)
	b.wantGiven(t, getAt("/b"), 0, 8)
	b.wantGiven(t, getAt("/b"), 0, 10)
	b.wantGiven(t, getAt("/c"), 0, 6)
	b.wantLooks(t, 0, 0)
}

// TestHead: of the method, the scheme, the authority and the path every byte counts.
func TestHead(t *testing.T) {
	q := getX("accept", "a")
	b := wantCache(t, 2, 100, 10)
	b.wantStore(t, q, ok("b", "vary", "accept"), 2, 0, true)
	for _, change := range []func(*api.Request, string){
		func(q *api.Request, s string) { q.Method = s }, func(q *api.Request, s string) { q.Scheme = s },
		func(q *api.Request, s string) { q.Authority = s }, func(q *api.Request, s string) { q.Path = s },
	} {
		for _, s := range []string{"", "get", "HEAD", "GET ", "POST", "http", "HTTPS", "httpsa", "A", "a.", "a/x", "x", "/", "/X", "/x/", "/x?", "/x\x00"} {
			other := q
			change(&other, s)
			b.wantNone(t, other, 0)
		}
	}
	b.wantNone(t, api.Request{Method: "GET", Scheme: "https", Authority: "a/", Path: "x", Fields: q.Fields}, 0)
	b.wantNone(t, api.Request{}, 0)
	b.wantGiven(t, q, 0, 2)
	for _, odd := range []api.Request{{}, {Method: "DELETE", Path: "*"}, {Method: "\xff", Scheme: " ", Authority: "\x00", Path: "\n"}, {Method: "HEAD", Path: "x"}} {
		b.wantStore(t, odd, ok("b"), 4, 0, true)
		b.wantNone(t, q, 0)
		b.wantGiven(t, odd, 0, 4)
	}
}

// TestBodies: a request with a body is answered by none, one that was promised with
// a body answers like any other.
func TestBodies(t *testing.T) {
	for _, promised := range []api.Request{getX(), withBody(getX(), "x"), withBody(getX(), "promised")} {
		b := wantCache(t, 2, 100, 10)
		b.wantStore(t, promised, ok("b"), 2, 0, true)
		b.wantLooks(t, 1, 1)
		for _, body := range []string{"x", "promised", " ", "\x00"} {
			b.wantNone(t, withBody(promised, body), 0)
		}
		b.wantGiven(t, getX(), 0, 2)
	}
}

// TestNames: the fields that the response's own vary names, in whatever letters,
// must be alike, and no others.
func TestNames(t *testing.T) {
	for _, c := range []struct {
		vary     string
		promised []string
		yes, no  [][]string
	}{
		{"", []string{"accept", "a"}, [][]string{nil, {"accept", "b"}, {"x", "y"}}, nil},
		{"accept", []string{"accept", "a", "x", "1"}, [][]string{{"accept", "a"}, {"y", "2", "accept", "a", "x", "3"}, {"Accept", "b", "accept", "a"}}, [][]string{nil, {"accept", "A"}, {"accept", "a "}, {"Accept", "a"}, {"accept", "a", "accept", "a"}, {"accept", "a", "accept", ""}}},
		{"ACCEPT", []string{"accept", "a"}, [][]string{{"accept", "a"}}, [][]string{nil, {"ACCEPT", "a"}, {"accept", "b"}}},
		{" Accept-Language\t,X", []string{"x", "1", "accept-language", "de"}, [][]string{{"accept-language", "de", "x", "1"}, {"x", "1", "accept-language", "de", "X", "2"}}, [][]string{{"x", "1"}, {"accept-language", "de"}, {"x", "1", "Accept-Language", "de"}, {"x", "de", "accept-language", "1"}}},
		{"a,b,a", []string{"a", "1", "b", "2", "a", "3"}, [][]string{{"a", "1", "a", "3", "b", "2"}, {"b", "2", "c", "", "a", "1", "a", "3"}}, [][]string{{"a", "3", "b", "2", "a", "1"}, {"a", "1", "b", "2"}, {"a", "1,3", "b", "2"}}},
		{"accept", nil, [][]string{nil, {"x", "y"}, {"Accept", "a"}}, [][]string{{"accept", ""}, {"accept", "a"}}},
		{"accept", []string{"accept", ""}, [][]string{{"accept", ""}}, [][]string{nil, {"accept", " "}, {"accept", "", "accept", ""}}},
		{"Accept", []string{"Accept", "a"}, [][]string{nil, {"Accept", "b"}}, [][]string{{"accept", "a"}}},
		{"vary", []string{"vary", "x"}, [][]string{{"vary", "x"}}, [][]string{nil, {"vary", "vary"}}},
	} {
		for _, asked := range c.yes {
			b := wantCache(t, 1, 1000, 10)
			b.wantStore(t, getX(c.promised...), ok("b", "vary", c.vary), 2, 0, true)
			for _, other := range c.no {
				b.wantNone(t, getX(other...), 0)
			}
			b.wantClaim(t, getX(asked...), 0, ok("b", "vary", c.vary), 2)
		}
	}
}

// TestOwnNames: each entry goes by its own response's names, wherever it lies.
func TestOwnNames(t *testing.T) {
	responses := []api.Response{ok("1", "vary", "a"), ok("2", "vary", "b"), ok("3", "vary", "a,b"), ok("4"), ok("5", "vary", "a", "vary", "B")}
	orders := [][]int{{0, 1, 2, 3, 4}, {4, 3, 2, 1, 0}, {2, 0, 4, 1, 3}, {3, 1, 4, 0, 2}}
	for _, order := range orders {
		for _, asked := range [][]string{nil, {"a", "1"}, {"b", "2"}, {"a", "1", "b", "2"}, {"a", "2", "b", "1"}, {"b", "2", "a", "1", "c", "3"}} {
			b := wantCache(t, 9, 1000, 10)
			for _, i := range order {
				b.wantStore(t, getX("a", "1", "b", "2"), responses[i], int64(2*i+2), 0, true)
			}
			for range order {
				b.holdClaim(t, getX(asked...), 0)
			}
			b.empty(t)
		}
	}
	b := wantCache(t, 9, 1000, 10)
	for i, r := range responses {
		b.wantStore(t, getX("a", "1", "b", "2"), r, int64(2*i+2), 0, true)
	}
	b.wantGiven(t, getX("a", "9", "b", "2"), 0, 4)
	b.wantGiven(t, getX("a", "9", "b", "9"), 0, 8)
	b.wantNone(t, getX("a", "9", "b", "9"), 0)
	b.wantGiven(t, getX("a", "1", "b", "2"), 0, 2)
	b.wantGiven(t, getX("a", "1", "b", "2"), 0, 6)
	b.wantNone(t, getX("a", "1", "b", "9"), 0)
	b.wantGiven(t, getX("a", "1", "b", "2"), 0, 10)
}

// TestHoldsTakesNothing: asked as often as one likes, all stay as they were.
func TestHoldsTakesNothing(t *testing.T) {
	b := wantCache(t, 3, 1000, 10)
	b.wantStore(t, getAt("/a"), sized(1), 2, 0, true)
	b.wantStore(t, getAt("/b"), sized(20), 4, 0, true)
	b.wantStore(t, getAt("/a"), sized(300), 6, 0, true)
	for range 5 {
		for path, want := range map[string]bool{"/a": true, "/b": true, "/c": false} {
			b.wantHolds(t, getAt(path), 10, want)
			b.wantHolds(t, withBody(getAt(path), "x"), 10, false)
			b.wantLooks(t, 3, 321)
		}
	}
	b.wantHolds(t, getAt("/a"), 11, false)
	b.wantLooks(t, 3, 321)
	b.wantTick(t, 11, 2, 4, 6)
}

// TestGivenWhole: a response comes back field by field, whatever it is.
func TestGivenWhole(t *testing.T) {
	for _, r := range []api.Response{
		{}, {Status: -1}, {Status: 999, Body: "\x00\xff\n"}, ok("b"), {Fields: []api.Field{}},
		ok("", "a", "1", "a", "1", "", "", "A", " "), ok("b", "vary", " X ,y", "vary", "z"), {Status: 200, Fields: []api.Field{{Name: "a", Value: "1", Never: true}, {Name: "a", Value: "1"}, {Never: true}}},
		{Status: 404, Fields: lists.Filled(lists.Of("b", "2"), 64), Body: "body"}, sized(65536),
	} {
		b := wantCache(t, 3, 1<<60, 10)
		b.wantStore(t, getX(), ok("first"), 2, 0, true)
		b.wantStore(t, getAt("/r"), r, 4, 0, true)
		b.wantStore(t, getX(), ok("last"), 6, 0, true)
		b.wantClaim(t, getAt("/r"), 0, r, 4)
		b.empty(t)
	}
}

// TestLarge: many fields and names, and long bodies, are gone through to the end.
func TestLarge(t *testing.T) {
	const many = 20000
	b := wantCache(t, 4, 1<<60, 10)
	var names []string
	for i := range many {
		names = append(names, "x-"+strconv.Itoa(i))
	}
	q := getX()
	q.Fields = lists.Filled(nil, many)
	last := lists.Instead(q.Fields, many-1, api.Field{Name: "x-" + strconv.Itoa(many-1), Value: "?"})
	few := getX("x-7", "1", "x-19999", "2")
	b.wantStore(t, q, ok("b", "vary", "x-19999"), 2, 0, true)
	b.wantStore(t, few, ok("b", "vary", strings.Join(names, ",")), 4, 0, true)
	b.wantStore(t, q, api.Response{Fields: slices.Concat(q.Fields, lists.Of("vary", "x-0"))}, 6, 0, true)
	other := q
	other.Fields = last
	b.wantGiven(t, other, 0, 6)
	b.wantNone(t, other, 0)
	b.wantGiven(t, q, 0, 2)
	b.wantNone(t, getX("x-7", "1", "x-19999", "3"), 0)
	b.wantGiven(t, few, 0, 4)
}
