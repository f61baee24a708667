package server_test

import (
	"fmt"
	"reflect"
	"strings"
	"testing"

	"herald/api"
	"herald/conn"
	"herald/field"
	"herald/lists"
	"herald/state"
	"herald/streams"
)

// some are pages /0, /1, .., of which the first pushes all others, in order.
func some(n int) ([]api.Page, []api.Rule) {
	r := rule("/0")
	for i := 1; i < n; i++ {
		r.Push = append(r.Push, target(fmt.Sprint("/", i)))
	}
	return manyPages(n), []api.Rule{r}
}

// TestPlan: promises go in the plan's order, eight at most, ahead of the head.
func TestPlan(t *testing.T) {
	pages := manyPages(12)
	for _, x := range []struct{ rules, want string }{
		{"/0", ""}, {"/1 /2", ""}, {"/0 /1", "/1"}, {"/0 /0", ""}, {"/0 /3 /1 /2", "/3 /1 /2"}, {"/0 /8 /7 /6 /5 /4 /3 /2 /1", "/8 /7 /6 /5 /4 /3 /2 /1"},
		{"/0 /1 /2; /1 /3; /3 /0 /4", "/1 /3 /4 /2"}, {"/0 /1 /2 /3 /4 /5 /6 /7 /8; /1 /9", "/1 /9 /2 /3 /4 /5 /6 /7"}, {"/0 /1; /1 /0 /1", "/1"},
		{"/0 /none /1; /none /2", "/2 /1"},
	} {
		var rules []api.Rule
		for _, s := range strings.Split(x.rules, "; ") {
			rules = append(rules, rule(s))
		}
		b := begunWith(t, pages, rules)
		b.ask("GET", "/0")
		log := []api.Serve{served(1, 1)}
		for i, path := range strings.Fields(x.want) {
			promised := int64(2*i + 2)
			b.wantReady(append([]int64{1}, evens(i)...)...)
			b.wantStep(0, pushed(1, promised, path))
			log = append(log, servedPush(promised, 1))
			b.wantLog(log...)
		}
		b.wantStep(0, answered(1, "200", 6, false))
		b.wantLog(log...)
		for !b.s.Idle() {
			b.step(1)
		}
		b.wantLog(log...)
		b.whole()
	}
}

// evens are so many, from 2 on.
func evens(n int) []int64 {
	var l []int64
	for i := range n {
		l = append(l, int64(2*i+2))
	}
	return l
}

// TestOtherAuthorities: a target's authority may be any; the scheme is the request's.
func TestOtherAuthorities(t *testing.T) {
	far := page("/far", "far")
	far.Authority = "other.test:8080"
	of := func(p api.Page) api.Target { return api.Target{Authority: p.Authority, Path: p.Path} }
	b := begunWith(t, []api.Page{page("/a", "A"), page("/far", "near"), far}, []api.Rule{{Of: target("/a"), Push: []api.Target{of(far), target("/far")}}, {Of: of(far), Push: []api.Target{target("/a")}}})
	b.recv(bytes(headersFrame(1, lists.Instead(request("GET", "/a"), 1, api.Field{Name: ":scheme", Value: "h+.1"}), true)))
	b.wantStep(0, promiseEvent(1, 2, lists.Of(":method", "GET", ":scheme", "h+.1", ":authority", "other.test:8080", ":path", "/far")))
	b.wantStep(0, promiseEvent(1, 4, lists.Of(":method", "GET", ":scheme", "h+.1", ":authority", "x", ":path", "/far")))
	b.wantStep(1, answered(2, "200", 3, false))
	b.wantStep(1, dataEvent(2, "far", true))
	b.wantStep(1, answered(4, "200", 4, false))
	b.wantStep(1, dataEvent(4, "near", true))
	b.recv(bytes(headersFrame(3, lists.Instead(request("GET", "/far"), 2, api.Field{Name: ":authority", Value: far.Authority}), true)))
	b.wantStep(1, pushed(3, 6, "/a"))
	b.whole()
}

// TestGreatTargets: as long as they may be.
func TestGreatTargets(t *testing.T) {
	deep := api.Page{Authority: strings.Repeat("a", 255), Path: "/" + strings.Repeat("p", 4095), Status: 200, Choices: []api.Choice{{Body: "deep"}}}
	rules := []api.Rule{{Of: target("/a"), Push: []api.Target{{Authority: deep.Authority, Path: deep.Path}}}}
	b := begunWith(t, append(abc(), deep), rules)
	b.recv(bytes(headersFrame(1, lists.Instead(request("GET", "/a"), 1, api.Field{Name: ":scheme", Value: strings.Repeat("s", 64)}), true)))
	list := lists.Of(":method", "GET", ":scheme", strings.Repeat("s", 64), ":authority", deep.Authority, ":path", deep.Path)
	b.wantStep(0, promiseEvent(1, 2, list))
	b.wantStep(1, answered(2, "200", 4, false))
	b.wantStep(1, dataEvent(2, "deep", true))
	b.whole()
}

// TestEachRequestPushes: also what was pushed before.
func TestEachRequestPushes(t *testing.T) {
	b := begun(t)
	b.ask("GET", "/a")
	b.ask("GET", "/a")
	b.wantReady(1, 3)
	b.wantStep(1, pushed(3, 2, "/b"))
	b.wantReady(1, 2, 3)
	b.wantStep(0, pushed(1, 4, "/b"))
	b.wantStep(0, pushed(1, 6, "/c"))
	b.wantStep(2, pushed(3, 8, "/c"))
	b.wantReady(1, 2, 3, 4, 6, 8)
	b.wantLog(served(1, 1), served(3, 1), servedPush(2, 1), servedPush(4, 1), servedPush(6, 1), servedPush(8, 1))
	for !b.s.Idle() {
		b.step(3)
	}
	b.whole()
}

// TestMissingPagePushes: a page that there isn't may have a rule all the same.
func TestMissingPagePushes(t *testing.T) {
	b := begunWith(t, abc(), []api.Rule{rule("/none /b /c")})
	b.ask("GET", "/none")
	b.wantStep(0, pushed(1, 2, "/b"))
	b.wantStep(0, pushed(1, 4, "/c"))
	b.wantStep(0, answered(1, "404", 0, true))
	b.whole()
}

// TestPushIsOff: promises are passed over while theirs Push is 0, in a Step and not
// ahead of it.
func TestPushIsOff(t *testing.T) {
	off, on := bytes(settingsFrame(param(api.SetPush, 0))), bytes(settingsFrame(param(api.SetPush, 1)))
	b := begun(t)
	b.ask("GET", "/a")
	b.recv(off + on)
	b.wantStep(0, acked(), acked(), pushed(1, 2, "/b"))
	b.recv(off)
	b.wantReady(1, 2)
	b.recv(on) // no Step has passed over anything
	b.wantStep(0, acked(), acked(), pushed(1, 4, "/c"))

	b = begun(t)
	b.ask("GET", "/a")
	b.wantStep(0, pushed(1, 2, "/b"))
	b.recv(off)
	b.wantStep(1, acked(), answered(2, "200", 0, true)) // another stream's unit, but /c is passed over
	b.recv(on)
	b.wantStep(0, acked(), answered(1, "200", 1, false))
	b.wantStep(0, dataEvent(1, "A", true))
	b.wantIdle()
	b.wantLog(served(1, 1), servedPush(2, 1))
	b.ask("GET", "/a")
	b.wantStep(0, pushed(3, 4, "/b"))
	b.whole()
}

// TestGoAway: behind it nothing is promised; all else goes on.
func TestGoAway(t *testing.T) {
	for _, away := range []string{bytes(goAwayFrame(0, 0)), bytes(goAwayFrame(top, calm)), bytes(goAwayFrame(2, 1<<32-1), goAwayFrame(0, 0))} {
		b := begun(t)
		b.recv(away)
		b.wantIdle()
		b.ask("GET", "/a")
		b.wantStep(0, answered(1, "200", 1, false))
		b.wantStep(0, dataEvent(1, "A", true))
		b.wantIdle()
		wantStillServes(b)

		b = begun(t)
		b.ask("GET", "/a")
		b.recv(away)
		b.wantReady(1)
		b.wantStep(0, answered(1, "200", 1, false))

		b = begun(t)
		b.ask("GET", "/a")
		b.wantStep(0, pushed(1, 2, "/b"))
		b.recv(away)
		b.wantReady(1, 2)
		b.wantStep(0, answered(1, "200", 1, false))
		b.wantStep(1, answered(2, "200", 0, true))
		b.wantStep(0, dataEvent(1, "A", true))
		b.wantIdle()
		b.recv(bytes(settingsFrame(param(api.SetPush, 1))))
		b.ask("GET", "/a")
		b.wantStep(0, acked(), answered(3, "200", 1, false))
		b.wantLog(served(1, 1), servedPush(2, 1), served(3, 1))
		b.whole()
	}
}

// TestPagesThatCome: a promise is passed over where its page isn't there at the
// moment at which it is the next; one that is there by then is served at that version.
func TestPagesThatCome(t *testing.T) {
	pages, rules := abc(), []api.Rule{rule("/a /new /b /newer /c")}
	b := begunWith(t, pages, rules)
	b.ask("GET", "/a")
	b.mustPut(page("/new", "new"))
	b.wantStep(0, pushed(1, 2, "/new"))
	b.wantStep(0, pushed(1, 4, "/b"))
	b.mustPut(page("/newer", "newer"))
	b.mustPut(page("/newer", "newest"))
	b.wantStep(0, pushed(1, 6, "/newer"))
	b.wantLog(served(1, 1), servedPush(2, 2), servedPush(4, 2), servedPush(6, 4))
	b.wantStep(3, answered(6, "200", 6, false))
	b.wantStep(3, dataEvent(6, "newest", true))
	b.whole()

	b = begunWith(t, pages, rules)
	b.ask("GET", "/a")
	b.wantStep(0, pushed(1, 2, "/b")) // /new is passed over
	b.mustPut(page("/new", "new"))
	b.wantStep(1, answered(2, "200", 0, true)) // and /newer
	b.mustPut(page("/newer", "newer"))
	b.wantStep(0, pushed(1, 4, "/c"))
	b.wantStep(0, answered(1, "200", 1, false))
	b.wantLog(served(1, 1), servedPush(2, 1), servedPush(4, 3))
	b.ask("GET", "/a")
	b.wantReady(1, 3, 4)
	b.wantStep(1, pushed(3, 6, "/new"))
	b.whole()
}

// TestNothingIsThere: where all promises are passed over the head goes at once.
func TestNothingIsThere(t *testing.T) {
	b := begunWith(t, abc(), []api.Rule{rule("/a /1 /2 /3 /4 /5 /6 /7 /8")})
	b.ask("GET", "/a")
	b.wantReady(1)
	b.wantStep(0, answered(1, "200", 1, false))
	b.wantStep(0, dataEvent(1, "A", true))
	b.wantIdle()
	b.wantLog(served(1, 1))
	b.whole()
}

// TestPromisesAtTheirList: a list may have as many bytes as theirs List says.
func TestPromisesAtTheirList(t *testing.T) {
	size := field.Size(request("GET", "/b"))
	if size != 168 {
		t.Fatalf("the list of /b has %d bytes", size)
	}
	pages, rules := append(abc(), page("/longer", "longer")), []api.Rule{rule("/a /b /longer /c")}
	for _, x := range []struct {
		most int64
		want string
	}{{167, ""}, {168, "/b /c"}, {172, "/b /c"}, {173, "/b /longer /c"}, {1<<32 - 1, "/b /longer /c"}} {
		b := begunWith(t, pages, rules, param(api.SetList, x.most))
		b.ask("GET", "/a")
		for i, path := range strings.Fields(x.want) {
			b.wantStep(0, pushed(1, int64(2*i+2), path))
		}
		b.wantStep(0, answered(1, "200", 1, false))
		b.whole()
	}
	b := begunWith(t, pages, rules)
	b.ask("GET", "/a")
	b.recv(bytes(settingsFrame(param(api.SetList, 167)), settingsFrame(param(api.SetList, 168))))
	b.wantStep(0, acked(), acked(), pushed(1, 2, "/b"))
	b.recv(bytes(settingsFrame(param(api.SetList, 100))))
	b.wantStep(0, acked(), answered(1, "200", 1, false))
	b.whole()
}

// wide is a page whose head's list has 189 bytes, with a body of less than ten.
func wide(path, body string) api.Page {
	return varied(path, strings.Repeat("v", 64), "", body)
}

func wideHead(length int) []api.Field {
	return lists.Of(":status", "200", "content-length", fmt.Sprint(length), "vary", strings.Repeat("v", 64))
}

// TestHeadsAtTheirList: a head may have as many bytes as theirs List says; a longer
// one resets its stream.
func TestHeadsAtTheirList(t *testing.T) {
	if n := field.Size(wideHead(1)); n != 189 {
		t.Fatalf("the head's list has %d bytes", n)
	}
	for _, most := range []int64{0, 1, 88, 89, 188, 189} {
		b := begunWith(t, []api.Page{page("/a", "A"), wide("/w", "W")}, nil, param(api.SetList, most))
		b.ask("GET", "/a")
		b.ask("GET", "/w")
		b.wantBusy()
		switch {
		case most < 89:
			b.wantReady()
			b.wantStep(0, resetEvent(1, internal), resetEvent(3, internal))
			b.wantIdle()
		case most < 189:
			b.wantReady(1)
			b.wantStep(0, resetEvent(3, internal), answered(1, "200", 1, false))
			b.wantStep(0, dataEvent(1, "A", true))
			b.wantIdle()
		default:
			b.wantReady(1, 3)
			b.wantStep(1, headEvent(3, wideHead(1), false))
		}
		b.wantLog(served(1, 1), served(3, 1))
		b.recv(bytes(settingsFrame(param(api.SetList, top))))
		b.step(0)
		b.step(0)
		b.step(0)
		b.whole()
	}
}

// TestLongHeadBehindPromises: while a promise stands ahead of it the stream isn't reset.
func TestLongHeadBehindPromises(t *testing.T) {
	pages, rules := []api.Page{wide("/w", "W"), page("/b", "B"), page("/c", "C")}, []api.Rule{rule("/w /b /c")}
	b := begunWith(t, pages, rules, param(api.SetList, 168))
	b.ask("GET", "/w")
	b.wantStep(0, pushed(1, 2, "/b"))
	b.wantReady(1, 2)
	b.wantStep(0, pushed(1, 4, "/c"))
	b.wantReady(2, 4) // stream 1 is to be reset
	b.wantBusy()
	b.wantStep(0, resetEvent(1, internal), answered(2, "200", 1, false))
	b.wantStep(0, dataEvent(2, "B", true))
	b.wantStep(0, answered(4, "200", 1, false))
	b.wantStep(0, dataEvent(4, "C", true))
	b.wantIdle()
	b.wantLog(served(1, 1), servedPush(2, 1), servedPush(4, 1))
	b.whole()

	// By the time that the head is the next the list may have room again.
	b = begunWith(t, pages, rules, param(api.SetList, 168))
	b.ask("GET", "/w")
	b.wantStep(0, pushed(1, 2, "/b"))
	b.wantStep(0, pushed(1, 4, "/c"))
	b.recv(bytes(settingsFrame(param(api.SetList, 189))))
	b.wantStep(0, acked(), headEvent(1, wideHead(1), false))
	b.recv(bytes(settingsFrame(param(api.SetList, 0))))
	b.wantReady(1) // the head of stream 1 is sent, those of the others go no more
	b.wantStep(0, acked(), resetEvent(2, internal), resetEvent(4, internal), dataEvent(1, "W", true))
	b.wantIdle()
	b.whole()
}

// TestLongHeadOfAPush: it resets the promised stream, also where that would have to wait.
func TestLongHeadOfAPush(t *testing.T) {
	for _, most := range []int64{0, 1} {
		pages := []api.Page{page("/a", "A"), wide("/b", "B"), page("/c", "C")}
		b := begunWith(t, pages, []api.Rule{rule("/a /b /c")}, param(api.SetList, 188), param(api.SetStreams, most))
		b.ask("GET", "/a")
		b.wantStep(0, pushed(1, 2, "/b"))
		b.wantReady(1)
		b.wantStep(0, resetEvent(2, internal), pushed(1, 4, "/c"))
		b.wantStep(0, answered(1, "200", 1, false))
		b.wantStep(0, dataEvent(1, "A", true))
		b.wantLog(served(1, 1), servedPush(2, 1), servedPush(4, 1))
		b.recv(bytes(resetFrame(4, refused)))
		b.wantIdle()
		b.whole()
	}
}

// TestLongPromiseAndLongHead: with both above theirs List the stream is reset in the
// Step that passes over.
func TestLongPromiseAndLongHead(t *testing.T) {
	b := begun(t)
	b.ask("GET", "/c")
	b.ask("GET", "/a")
	b.ask("GET", "/a")
	b.recv(bytes(settingsFrame(param(api.SetList, 50))))
	b.wantReady()
	b.wantBusy()
	b.wantStep(0, acked(), resetEvent(1, internal), resetEvent(3, internal), resetEvent(5, internal))
	b.wantIdle()
	b.whole()
}

// bear lets a promised stream be born as if all below it had been, which no test
// has the time for.
func bear(c *conn.Conn, id int64) {
	table := reflect.ValueOf(c).Elem().FieldByName("streams").UnsafePointer()
	(*streams.Table)(table).Do(id, state.Event{Kind: state.Promise})
}

// TestNoNumberIsLeft: a promise that finds none is passed over in its unit.
func TestNoNumberIsLeft(t *testing.T) {
	pages, rules := some(5)
	b := begunWith(t, pages, rules)
	bear(b.s.Conn(), top-5)
	bear(b.m.c, top-5)
	b.isUsedUp = true
	b.ask("GET", "/0")
	b.wantStep(0, pushed(1, top-3, "/1"))
	b.wantStep(0, pushed(1, top-1, "/2"))
	log := []api.Serve{served(1, 1), servedPush(top-3, 1), servedPush(top-1, 1)}
	for range 2 {
		b.wantReady(1, top-3, top-1)
		b.wantBusy()
		b.wantStep(0)
		b.wantLog(log...)
	}
	b.wantStep(0, answered(1, "200", 6, false))
	b.wantStep(1, answered(top-3, "200", 6, false))
	b.wantStep(0, dataEvent(1, "body 0", true))
	b.wantStep(0, dataEvent(top-3, "body 1", true))
	b.wantStep(0, answered(top-1, "200", 6, false))
	b.wantStep(0, dataEvent(top-1, "body 2", true))
	b.wantIdle()
	b.wantLog(log...)
	b.whole()
}

// TestNoNumberAndNoPush: what may not be sent is passed over ahead of its unit, also
// where no number is left.
func TestNoNumberAndNoPush(t *testing.T) {
	b := begun(t)
	bear(b.s.Conn(), top-1)
	bear(b.m.c, top-1)
	b.isUsedUp = true
	b.ask("GET", "/a")
	b.wantStep(0) // /b
	b.recv(bytes(goAwayFrame(0, 0)))
	b.wantStep(0, answered(1, "200", 1, false))
	b.wantStep(0, dataEvent(1, "A", true))
	b.wantIdle()
	b.wantLog(served(1, 1))
	b.whole()
}
