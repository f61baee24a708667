package pair_test

import (
	"fmt"
	"maps"
	"math/rand"
	"slices"
	"strings"
	"testing"

	"herald/api"
	"herald/field"
	"herald/frame"
	"herald/lists"
)

// framed are the bytes of right frames.
func framed(frames ...api.Frame) string {
	var text strings.Builder
	for _, f := range frames {
		b, e := frame.Write(f)
		if e != 0 {
			panic(fmt.Sprintf("a test writes a wrong frame: %+v", f))
		}
		text.WriteString(b)
	}
	return text.String()
}

// plainBlock packs a list without any table, so that none is touched by it.
func plainBlock(l []api.Field) string {
	var b strings.Builder
	for _, f := range l {
		b.WriteByte(0)
		for _, s := range []string{f.Name, f.Value} {
			if len(s) > 126 {
				panic("a test packs a long text")
			}
			b.WriteByte(byte(len(s)))
			b.WriteString(s)
		}
	}
	return b.String()
}

func promiseFrame(stream, promised int64, l []api.Field) api.Frame {
	return api.Frame{Type: promises, Flags: 4, Stream: stream, Last: promised, Data: plainBlock(l)}
}

func headFrame(stream int64, l []api.Field, end bool) api.Frame {
	f := api.Frame{Type: headers, Flags: 4, Stream: stream, Data: plainBlock(l)}
	if end {
		f.Flags |= 1
	}
	return f
}

func dataFrame(stream int64, text string, end bool) api.Frame {
	f := api.Frame{Type: data, Stream: stream, Data: text}
	if end {
		f.Flags = 1
	}
	return f
}

func listOf(r api.Request) []api.Field {
	l, e := field.WriteRequest(r)
	if e != 0 {
		panic("a test lists a wrong request")
	}
	return l
}

// from is a request to any origin.
func from(scheme, authority, path string) api.Request {
	return api.Request{Method: "GET", Scheme: scheme, Authority: authority, Path: path}
}

// foreignLists are what a client of https://x may not take.
func foreignLists() map[string][]api.Field {
	right := listOf(get("/evil"))
	return map[string][]api.Field{
		"another host":         listOf(from("https", "y", "/evil")),
		"a host below":         listOf(from("https", "a.x", "/evil")),
		"another scheme":       listOf(from("http", "x", "/evil")),
		"another port":         listOf(from("https", "x:8443", "/evil")),
		"a user":               listOf(from("https", "u@x", "/evil")),
		"POST":                 listOf(by("POST", get("/evil"))),
		"PUT":                  listOf(by("PUT", get("/evil"))),
		"OPTIONS":              listOf(by("OPTIONS", get("/evil"))),
		"get":                  listOf(by("get", get("/evil"))),
		"a body":               lists.Joined(right, lists.Of("content-length", "4")...),
		"no fields":            nil,
		"no method":            lists.Without(right, 0),
		"no scheme":            lists.Without(right, 1),
		"no authority":         lists.Without(right, 2),
		"no path":              lists.Without(right, 3),
		"a method twice":       lists.Joined(right, lists.Of(":method", "GET")...),
		"a status":             lists.Joined(right, lists.Of(":status", "200")...),
		"a pseudo field late":  lists.Joined(lists.Joined(right[:3], lists.Of("a", "b")...), right[3]),
		"a great letter":       lists.Joined(right, lists.Of("Accept", "x")...),
		"a connection's field": lists.Joined(right, lists.Of("connection", "close")...),
		"two lengths":          lists.Joined(right, lists.Of("content-length", "0", "content-length", "1")...),
	}
}

// pushed are the frames of a whole push on stream 1.
func pushed(promised int64, l []api.Field, body string) []api.Frame {
	return []api.Frame{promiseFrame(1, promised, l), headFrame(promised, lists.Of(":status", "200"), false), dataFrame(promised, body, true)}
}

// flown is one whose request for /b, with which nothing is pushed, is on its way.
func flown(t *testing.T) *both {
	t.Helper()
	b := begun(t)
	b.all(ask(get("/b")), move(moveClient, 0))
	return b
}

// sentNow are the frames of one Step of the client's, which aren't given to the server.
func sentNow(b *both) []api.Frame {
	b.t.Helper()
	lies, n := b.last.ToServer, len(b.last.UserTrace)
	b.all(move(moveClient, 0), forge(1, lies))
	return framesOf(b.last.UserTrace[n:], true)
}

// TestForeign is T2: of each promise nothing is kept or answered, and just its stream
// is reset, once; all else goes on.
func TestForeign(t *testing.T) {
	for name, l := range foreignLists() {
		b := flown(t)
		b.all(forge(0, framed(pushed(2, l, "evil")...)), move(moveToClient, -1))
		b.wantHeld(0, 0, 0)
		b.wantDead(0, 0)
		want := api.Frame{Type: reset, Stream: 2, Code: protocol}
		n := 0
		for _, f := range sentNow(b) {
			if f.Type != update && !(f.Type == want.Type && f.Stream == want.Stream && f.Code == want.Code) || f.Type == update && f.Stream != 0 {
				t.Fatalf("T2: %s: the client sends %+v", name, f)
			}
			if f.Type == reset {
				n++
			}
		}
		if n != 1 || len(sentNow(b)) > 0 {
			t.Fatalf("T2: %s: it is reset %d times", name, n)
		}
		b.rounds(5)
		b.wantAnswers(answer(1, false, 1, "B"))
		wantNotAnswered(b, l)
	}
}

// wantNotAnswered asks for what was promised, where that is a request, and for what
// is like it.
func wantNotAnswered(b *both, l []api.Field) {
	b.t.Helper()
	r, e := field.ReadRequest(l)
	all := []api.Request{get("/evil"), by("HEAD", get("/evil")), from("https", "y", "/evil"), from("http", "x", "/evil")}
	if e == 0 {
		all = append(all, r)
	}
	for _, r := range all {
		n, waits := len(b.last.Answers), b.last.Waiting
		if b.do(ask(r)) == 0 && (len(b.last.Answers) != n || b.last.Waiting != waits+1) {
			b.t.Fatalf("T2: %s: %s is answered by what was promised wrongly", b.history(), lists.ShownRequest(r))
		}
	}
}

// TestNotForeign: what may be taken is, and is answered: by the same means.
func TestNotForeign(t *testing.T) {
	for name, r := range map[string]api.Request{
		"GET": get("/evil"), "HEAD": by("HEAD", get("/evil")), "the port": from("https", "x:443", "/evil"), "great letters": from("https", "X", "/evil"),
		"no body": get("/evil", lists.Of("content-length", "0")...), "another field": get("/evil", lists.Of("accept", "y")...),
	} {
		b := flown(t)
		frames := pushed(2, listOf(r), "good")
		if r.Method == "HEAD" {
			frames[1], frames[2] = headFrame(2, lists.Of(":status", "200"), true), api.Frame{Type: 99}
		}
		b.all(forge(0, framed(frames...)), move(moveToClient, -1))
		b.wantDead(0, 0)
		if b.last.Held != 1 {
			t.Fatalf("T2: %s: %d are held", name, b.last.Held)
		}
		b.all(ask(r))
		if l := b.last.Answers; len(l) != 1 || !l[0].Cached || l[0].Stream != 2 || l[0].Response.Status != 200 {
			t.Fatalf("T2: %s: %s", name, shown(l))
		}
	}
}

// TestForeignDeath: promises by which the connection dies; nothing of them is kept.
func TestForeignDeath(t *testing.T) {
	good := listOf(get("/evil"))
	for name, frames := range map[string][]api.Frame{
		"an odd stream":           pushed(3, good, "evil"),
		"on a promised stream":    append(pushed(2, good, "")[:1], promiseFrame(2, 4, good)),
		"on no stream":            {promiseFrame(5, 2, good)},
		"the same stream again":   append(pushed(2, good, "")[:1], pushed(2, good, "evil")...),
		"a lesser stream":         append(pushed(4, good, "")[:1], pushed(2, good, "evil")...),
		"a block that isn't one":  {{Type: promises, Flags: 4, Stream: 1, Last: 2, Data: "\xff\xff\xff"}},
		"something in the block":  {{Type: promises, Stream: 1, Last: 2, Data: plainBlock(good)}, dataFrame(1, "x", false)},
		"a head without a stream": {headFrame(2, lists.Of(":status", "200"), true)},
	} {
		b := flown(t)
		b.all(forge(0, framed(frames...)+framed(pushed(8, good, "evil")...)), move(moveToClient, -1))
		if !b.last.Dead[1] || b.last.Held != 0 || b.last.Pending != 0 {
			t.Fatalf("T2: %s: dead %v, %d are held, %d under way", name, b.last.Dead, b.last.Held, b.last.Pending)
		}
		n := len(b.last.Answers)
		b.all(ask(get("/evil")))
		if a := b.last.Answers[n]; a.Cached || a.Code != refused {
			t.Errorf("T2: %s: %s", name, shown(a))
		}
	}
}

// TestPushOffForged: a promise where pushing is off, and that is acknowledged.
func TestPushOffForged(t *testing.T) {
	b := begunWith(t, worldWith(func(w *api.World) { w.Client.Push = 0 }))
	b.all(ask(get("/b")), move(moveClient, 0), forge(0, framed(pushed(2, listOf(get("/c")), "evil")...)), move(moveToClient, -1))
	b.wantDead(0, protocol)
	b.wantHeld(0, 0, 0)
}

// enemy is a pair whose server is silent: all that comes to the client is forged.
type enemy struct {
	*both
	r     *rand.Rand
	last  int64 // promised stream
	right [][]api.Field
	wrong [][]api.Field
	begun []int64 // promised streams without a head
	half  []int64 // those without an end
}

// next is a frame that a server might send, or, now and then, might not.
func (x *enemy) next() api.Frame {
	switch n := x.r.Intn(60); {
	case n == 0:
		return headFrame(oneOf(x.r, int64(1), 2, x.last+2), lists.Of(":status", oneOf(x.r, "200", "no")), x.r.Intn(3) == 0)
	case n == 1:
		return dataFrame(oneOf(x.r, int64(1), 2, x.last+1), "evil", x.r.Intn(2) == 0)
	case n == 2:
		return api.Frame{Type: reset, Stream: oneOf(x.r, int64(1), 2, 3, x.last+1), Code: x.r.Int63n(14)}
	case n < 6:
		return api.Frame{Type: 6, Data: "pingpong"}
	case n < 22 && len(x.begun) > 0:
		id := x.begun[0]
		x.begun, x.half = x.begun[1:], append(x.half, id)
		return headFrame(id, lists.Of(":status", "200"), false)
	case n < 40 && len(x.half) > 0:
		id := x.half[0]
		x.half = x.half[1:]
		return dataFrame(id, "pushed", true)
	}
	x.last += 2
	x.begun = append(x.begun, x.last)
	return promiseFrame(oneOf(x.r, int64(1), 3, 5), x.last, oneOf(x.r, oneOf(x.r, x.right, x.wrong)...))
}

// TestForeignRandom is T2 whatever comes: what is answered out of the cache was
// promised rightly, and each wrong promise is reset once with ProtocolError (with
// Cancel, where its stream was given up), or the connection dies.
func TestForeignRandom(t *testing.T) {
	r := rand.New(rand.NewSource(2502))
	tried := map[string]int{}
	right := [][]api.Field{listOf(get("/evil")), listOf(get("/b")), listOf(get("/c", lists.Of("content-length", "0")...))}
	var wrong [][]api.Field
	for _, name := range slices.Sorted(maps.Keys(foreignLists())) {
		wrong = append(wrong, foreignLists()[name])
	}
	for range 400 {
		b := begunWith(t, worldWith(func(w *api.World) {
			w.Rules = nil
			w.Conf.Pending = oneOf(r, int64(1), 4, 64)
		}))
		x := &enemy{both: b, r: r, right: right, wrong: wrong}
		for range 3 {
			b.all(ask(get("/a")), move(moveClient, 0))
		}
		for range 25 {
			text := ""
			for range 1 + r.Intn(3) {
				text += framed(x.next())
			}
			b.all(forge(0, text), move(moveToClient, -1))
			switch r.Intn(5) {
			case 0:
				b.do(ask(oneOf(r, get("/evil"), get("/b"), get("/c"), by("HEAD", get("/evil")), from("https", "y", "/evil"), by("POST", get("/evil")))))
			case 1:
				b.all(move(moveClient, 0))
			case 2:
				b.do(move(moveCancel, 1+r.Int63n(4)))
			}
		}
		b.all(move(moveClient, 0))
		x.judge(tried)
	}
	for _, what := range []string{"wrong", "right", "cached", "dead", "alive"} {
		if tried[what] < 50 {
			t.Errorf("%s: %d times, too few to tell", what, tried[what])
		}
	}
	t.Log(tried)
}

// judge looks at the client's log and its answers.
func (x *enemy) judge(tried map[string]int) {
	x.t.Helper()
	all, wrong := newReader().next(x.both.last.UserTrace)
	if wrong != "" {
		return // a block that can't be unpacked is the enemy's
	}
	resets, isWrong, first := map[int64][]int64{}, map[int64]bool{}, map[int64]bool{}
	for _, h := range all {
		switch {
		case h.sent && h.f.Type == reset:
			resets[h.f.Stream] = append(resets[h.f.Stream], h.f.Code)
		case !h.sent && h.f.Type == promises:
			isWrong[h.f.Last] = slices.ContainsFunc(x.wrong, func(l []api.Field) bool { return lists.Same(l, h.fields) })
			first[h.f.Last] = true
		}
	}
	isDead := x.both.last.Dead[1]
	for id := range first {
		if !isWrong[id] {
			tried["right"]++
			continue
		}
		tried["wrong"]++
		codes := resets[id]
		if len(codes) > 1 || !isDead && (len(codes) != 1 || codes[0] != protocol && codes[0] != cancel) {
			x.t.Fatalf("T2: %s: the wrong promise of %d is reset with %v", x.history(), id, codes)
		}
	}
	for _, a := range x.both.last.Answers {
		if a.Cached {
			tried["cached"]++
			if isWrong[a.Stream] || !first[a.Stream] {
				x.t.Fatalf("T2: %s: a request is answered by a wrong promise: %s", x.history(), shown(a))
			}
		}
	}
	if isDead {
		tried["dead"]++
	} else {
		tried["alive"]++
	}
}
