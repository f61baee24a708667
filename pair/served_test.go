package pair_test

import (
	"fmt"
	"reflect"
	"strings"
	"testing"

	"herald/api"
	"herald/field"
)

// promisedOn are the requests that a server promised on a stream, by its log.
func promisedOn(t *testing.T, l []api.Entry, stream int64) []api.Request {
	t.Helper()
	all, wrong := newReader().next(l)
	if wrong != "" {
		t.Fatal(wrong)
	}
	var told []api.Request
	for _, h := range all {
		if h.sent && h.f.Type == promises && h.f.Stream == stream {
			r, e := field.ReadRequest(h.fields)
			if e != 0 {
				t.Fatalf("T9: a promise is no request: %d", e)
			}
			told = append(told, r)
		}
	}
	return told
}

func wantPromised(t *testing.T, name string, b *both, stream int64, want ...api.Request) {
	t.Helper()
	got := promisedOn(t, b.last.ServerTrace, stream)
	if len(got)+len(want) > 0 && !reflect.DeepEqual(got, want) {
		t.Errorf("T9: %s: on stream %d are promised %s, want %s", name, stream, shown(got), shown(want))
	}
}

// TestPlansOrder is T9: each target that the site has, and whose list fits, in the
// plan's order, ahead of the page's head.
func TestPlansOrder(t *testing.T) {
	w := worldWith(func(w *api.World) {
		w.Pages = append(w.Pages, page("/c", "C"), page("/d", "D"), page(longPath, "L"), pageOf("y", "/b", "Y"))
		w.Rules = []api.Rule{
			{Of: target("/a"), Push: []api.Target{target("/d"), target("/none"), target("/b"), target("/a"), {Authority: "y", Path: "/b"}}},
			rule("/d", "/c", longPath, "/d", "/b"),
		}
		w.Origins = append(w.Origins, "https://y")
	})
	y := from("https", "y", "/b")
	b := begunWith(t, w)
	b.all(ask(get("/a")))
	b.rounds(30)
	wantPromised(t, "a GET", b, 1, get("/d"), get("/c"), get(longPath), get("/b"), y)
	b.wantLog(api.Serve{Stream: 1, Version: 1}, api.Serve{Stream: 2, Version: 1, Push: true}, api.Serve{Stream: 4, Version: 1, Push: true}, api.Serve{Stream: 6, Version: 1, Push: true}, api.Serve{Stream: 8, Version: 1, Push: true}, api.Serve{Stream: 10, Version: 1, Push: true})
	w.Client.List = 1024
	b = begunWith(t, w)
	b.all(ask(get("/a")))
	b.rounds(30)
	wantPromised(t, "a list that doesn't fit", b, 1, get("/d"), get("/c"), get("/b"), y)
	for _, method := range []string{"HEAD", "POST"} {
		b = begunWith(t, w)
		b.all(ask(by(method, get("/a"))))
		b.rounds(30)
		wantPromised(t, method, b, 1)
		b.wantLog(api.Serve{Stream: 1, Version: 1})
	}
	b = begunWith(t, w)
	b.all(ask(with("body", get("/a"))), ask(from("http", "x", "/d")))
	b.rounds(30)
	wantPromised(t, "a GET with a body", b, 1, get("/d"), get("/c"), get("/b"), y)
	wantPromised(t, "another scheme", b, 3, from("http", "x", "/c"), from("http", "x", "/b"))
	w.Client.Push = 0
	b = begunWith(t, w)
	b.all(ask(get("/a")))
	b.rounds(30)
	wantPromised(t, "pushing is off", b, 1)
}

// TestServedOnce is T9: each request that came whole, in the order in which they did;
// those that came in part are not served.
func TestServedOnce(t *testing.T) {
	b := begun(t)
	b.all(ask(with(long(40000), by("POST", get("/a")))), ask(get("/b")), ask(get("/none")), ask(with("b", by("PUT", get("/b")))))
	b.all(move(moveClient, 0), move(moveClient, 0), move(moveClient, 0), move(moveClient, 0)) // the heads
	b.all(move(moveToServer, -1))
	b.wantLog(api.Serve{Stream: 3, Version: 1}, api.Serve{Stream: 5, Version: 1})
	b.all(move(moveClient, 0), move(moveToServer, -1), put(page("/c", "")), move(moveClient, 1), move(moveToServer, -1))
	b.wantLog(api.Serve{Stream: 3, Version: 1}, api.Serve{Stream: 5, Version: 1}, api.Serve{Stream: 7, Version: 2})
	b.rounds(3)
	want := []api.Serve{{Stream: 3, Version: 1}, {Stream: 5, Version: 1}, {Stream: 7, Version: 2}, {Stream: 1, Version: 2}}
	b.wantLog(want...)
	b.rounds(40)
	b.wantLog(want...)
	b.wantStill(true)
	for _, a := range b.last.Answers {
		if status := map[int]int{1: 405, 2: 200, 3: 404, 4: 405}[a.Number]; a.Response.Status != status {
			t.Errorf("T1: %s", shown(a))
		}
	}
}

// TestNotWhole: a request that is given up ahead of its end isn't served.
func TestNotWhole(t *testing.T) {
	b := begun(t)
	b.all(ask(with(long(60000), by("POST", get("/a")))))
	b.rounds(2)
	b.all(move(moveCancel, 1))
	b.rounds(9)
	b.wantStill(true)
	b.wantLog()
	b.wantAnswers(failed(1, cancel))
	wantWindows(t, "a body that was given up", b.p)
}

// TestChangedPlan: pages that come to be between the promises are promised, when
// their turn comes.
func TestChangedPlan(t *testing.T) {
	b := begunWith(t, worldWith(func(w *api.World) { w.Rules = []api.Rule{rule("/a", "/b", "/c", "/d")} }))
	b.all(ask(get("/a")), move(moveClient, 0), move(moveToServer, -1), move(moveServer, 0), put(page("/d", "D")))
	b.rounds(20)
	wantPromised(t, "a page that came to be", b, 1, get("/b"), get("/d"))
	b.wantLog(api.Serve{Stream: 1, Version: 1}, api.Serve{Stream: 2, Version: 1, Push: true}, api.Serve{Stream: 4, Version: 2, Push: true})
}

// TestEightAtMost: of a plan with more than eight.
func TestEightAtMost(t *testing.T) {
	b := begunWith(t, worldWith(func(w *api.World) {
		w.Rules = nil
		for i := range 12 {
			w.Pages = append(w.Pages, page(fmt.Sprint("/", i), strings.Repeat("b", i)))
			w.Rules = append(w.Rules, rule(fmt.Sprint("/", i), fmt.Sprint("/", i+1)))
		}
	}))
	b.all(ask(get("/0")))
	b.rounds(40)
	var want []api.Request
	for i := range 8 {
		want = append(want, get(fmt.Sprint("/", i+1)))
	}
	wantPromised(t, "a long plan", b, 1, want...)
}
