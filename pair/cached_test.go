package pair_test

import (
	"fmt"
	"testing"

	"herald/api"
	"herald/lists"
)

// site is what the server answers to a request at a version.
func site(b *both, version int64, r api.Request) api.Response {
	b.t.Helper()
	r.Body = ""
	response, e := b.p.Server().Serve(version, r)
	if e != 0 {
		b.t.Fatalf("Serve: %d", e)
	}
	return response
}

// TestCachedIsTheSites is T1: pages are changed at each moment of a talk; what is
// cached is the version of its promise's moment, what is direct that of its own.
func TestCachedIsTheSites(t *testing.T) {
	for at := range 10 {
		b := begun(t)
		b.all(ask(get("/a")))
		for i := range 10 {
			if i == at {
				b.all(put(page("/a", "A2")), put(page("/b", "B2")))
			}
			b.rounds(1)
		}
		var versions []int64 // of the serve of /a, and of the promise of /b
		for _, line := range b.last.Log {
			versions = append(versions, line.Version)
		}
		want := int64(1)
		if at == 0 {
			want = 3
		}
		if len(versions) != 2 || versions[0] != want || versions[1] != want {
			t.Fatalf("T1: changed in round %d: %v", at, b.last.Log)
		}
		b.all(ask(get("/b")), ask(get("/b")))
		b.rounds(9)
		got := b.last.Answers
		if len(got) != 3 || !got[1].Cached || got[2].Cached {
			t.Fatalf("T1: changed in round %d: %s", at, shown(got))
		}
		wants := []api.Response{site(b, versions[0], get("/a")), site(b, versions[1], get("/b")), site(b, 3, get("/b"))}
		for i, want := range wants {
			if !lists.SameResponse(got[i].Response, want) {
				t.Errorf("T1: changed in round %d: answer %d is %s, want %s", at, i, shown(got[i]), lists.ShownResponse(want))
			}
		}
	}
}

// TestBetweenPromiseAndBody: a change behind the promise doesn't show, one ahead of
// it does, on the page's own stream neither behind its serve.
func TestBetweenPromiseAndBody(t *testing.T) {
	step := []api.Move{move(moveServer, 0), move(moveToClient, -1)}
	begin := func() *both {
		b := begun(t)
		b.all(ask(get("/a")), move(moveClient, 0), move(moveToServer, -1)) // /a is served
		return b
	}
	b := begin()
	b.all(put(page("/a", "A2")), put(page("/b", "B2")))
	b.all(step...) // /b is promised
	b.all(put(page("/b", "B3")))
	b.rounds(9)
	b.all(ask(get("/b")))
	b.wantLog(api.Serve{Stream: 1, Version: 1}, api.Serve{Stream: 2, Version: 3, Push: true})
	b.wantAnswers(answer(1, false, 1, "A"), answer(2, true, 2, "B2"))
}

// TestDirectWouldBeTheSame is T1's second half: if no page changed, whatever is
// cached is what the server would have answered.
func TestDirectWouldBeTheSame(t *testing.T) {
	w := worldWith(func(w *api.World) {
		w.Pages = append(w.Pages, varied("/v"), page("/c", ""), page("/d", long(900)))
		w.Pages[1].Status = 500
		w.Rules = []api.Rule{rule("/a", "/b", "/v", "/c", "/d")}
		w.Conf = api.Conf{Entries: 64, Bytes: 1 << 20, Life: 10, Pending: 64}
	})
	for _, path := range []string{"/b", "/v", "/c", "/d"} {
		for _, fields := range [][]api.Field{nil, lists.Of("accept", "1"), lists.Of("accept", ""), lists.Of("x", "1")} {
			with, without := begunWith(t, w), begunWith(t, w)
			with.all(ask(get("/a")))
			with.rounds(30)
			for _, b := range []*both{with, without} {
				b.all(ask(get(path, fields...)))
				b.rounds(30)
			}
			cached, direct := with.last.Answers[1], without.last.Answers[0]
			if isVaried := path == "/v" && len(fields) > 0 && fields[0].Name == "accept"; cached.Cached == isVaried {
				t.Errorf("T10: %s %s: cached is %v", path, lists.Shown(fields), cached.Cached)
			}
			if direct.Cached || !lists.SameResponse(cached.Response, direct.Response) {
				t.Errorf("T1: %s %s: %s, directly %s", path, lists.Shown(fields), shown(cached), shown(direct))
			}
		}
	}
}

// twice is a pair that has two of /b: promised with /a (stream 2) and with /c (4).
func twice(t *testing.T) *both {
	t.Helper()
	b := begunWith(t, worldWith(func(w *api.World) {
		w.Pages = append(w.Pages, page("/c", "C"))
		w.Rules = append(w.Rules, rule("/c", "/b"))
	}))
	b.all(ask(get("/a")), ask(get("/c")), move(moveClient, 0), move(moveClient, 0), move(moveToServer, -1))
	b.all(move(moveServer, 0), put(page("/b", "B2")), move(moveServer, 2)) // the promises: of 1, 2, 3 the third
	b.wantLog(api.Serve{Stream: 1, Version: 1}, api.Serve{Stream: 3, Version: 1}, api.Serve{Stream: 2, Version: 1, Push: true}, api.Serve{Stream: 4, Version: 2, Push: true})
	return b
}

// TestOldestFirst is T10: of two that match, that which came whole first answers
// first; each answers once.
func TestOldestFirst(t *testing.T) {
	b := twice(t)
	b.rounds(20)
	b.wantHeld(2, 97, 0)
	b.all(ask(get("/b")), ask(get("/b")), ask(get("/b")))
	b.rounds(9)
	b.wantAnswers(answer(1, false, 1, "A"), answer(2, false, 3, "C"), answer(3, true, 2, "B"), answer(4, true, 4, "B2"), answer(5, false, 5, "B2"))
	b = twice(t)
	b.all(move(moveServer, 3), move(moveServer, 3)) // head and body of 4, ahead of all others
	b.rounds(20)
	b.all(ask(get("/b")), ask(get("/b")))
	b.wantAnswers(answer(1, false, 1, "A"), answer(2, false, 3, "C"), answer(3, true, 4, "B2"), answer(4, true, 2, "B"))
}

// TestFirstThatMatches is T10: what doesn't match passes it by, and a request with a
// Body does.
func TestFirstThatMatches(t *testing.T) {
	b := begunWith(t, worldWith(func(w *api.World) {
		w.Pages = append(w.Pages, varied("/v"))
		w.Rules = []api.Rule{rule("/a", "/b", "/v")}
	}))
	b.all(ask(get("/a")))
	b.rounds(20)
	n := b.last.Held
	for i, r := range []api.Request{
		by("HEAD", get("/b")), from("http", "x", "/b"), from("https", "x:443", "/b"), get("/B"), with("body", get("/b")), by("POST", get("/b")),
		get("/v", lists.Of("accept", "1")...), get("/v", lists.Of("accept", "")...), get("/v", lists.Of("accept", "1", "accept", "2")...), get("/a"),
	} {
		b.all(ask(r))
		if b.last.Held != n || b.last.Waiting != i+1 {
			t.Fatalf("T10: %s: %s is answered", b.history(), lists.ShownRequest(r))
		}
	}
	b.all(ask(get("/v", lists.Of("x-other", "1")...)), ask(get("/b", lists.Of("accept", "2")...)), ask(get("/b")))
	if l := b.last.Answers; len(l) != 3 || !l[1].Cached || l[1].Number != 12 || l[1].Response.Body != "none" || !l[2].Cached || l[2].Number != 13 || l[2].Response.Body != "B" || b.last.Held != 0 {
		t.Errorf("T10: %s", shown(l))
	}
}

// TestNotThere is T10's exceptions: claimed, thrown out, expired, not kept.
func TestNotThere(t *testing.T) {
	pushed := func(change func(*api.World)) *both {
		b := begunWith(t, worldWith(func(w *api.World) {
			w.Pages = append(w.Pages, page("/c", "CC"), page("/d", "DDD"))
			w.Rules = []api.Rule{rule("/a", "/b", "/c", "/d")}
			change(w)
		}))
		b.all(ask(get("/a")))
		b.rounds(20)
		b.wantStill(true)
		return b
	}
	wantCached := func(name string, b *both, want ...bool) {
		t.Helper()
		for i, path := range []string{"/b", "/c", "/d"} {
			n := len(b.last.Answers)
			b.all(ask(get(path)))
			if is := len(b.last.Answers) > n; is != want[i] {
				t.Errorf("T10: %s: %s is answered at once: %v", name, path, is)
			}
		}
	}
	wantCached("all", pushed(func(w *api.World) {}), true, true, true)
	wantCached("two entries", pushed(func(w *api.World) { w.Conf.Entries = 2 }), false, true, true)
	wantCached("one entry", pushed(func(w *api.World) { w.Conf.Entries = 1 }), false, false, true)
	wantCached("room for two", pushed(func(w *api.World) { w.Conf.Bytes = 49 + 50 }), false, true, true)
	wantCached("room for one", pushed(func(w *api.World) { w.Conf.Bytes = 49 + 50 - 1 }), false, false, true)
	wantCached("room for a small one", pushed(func(w *api.World) { w.Conf.Bytes = 48 }), true, false, false)
	wantCached("no room", pushed(func(w *api.World) { w.Conf.Bytes = 47 }), false, false, false)
	b := pushed(func(w *api.World) {})
	b.all(move(moveTick, 11))
	wantCached("expired", b, false, false, false)
	b = pushed(func(w *api.World) {})
	b.all(ask(get("/c")))
	wantCached("claimed", b, true, false, true)
}

// TestNeverTwice is T4: many requests beside one kept response: one is answered by it.
func TestNeverTwice(t *testing.T) {
	b := second(t)
	for range 20 {
		b.all(ask(get("/b")))
	}
	b.rounds(40)
	n := 0
	for i, a := range b.last.Answers {
		if a.Cached {
			n++
		}
		if want := "AB"[min(i, 1) : min(i, 1)+1]; a.Response.Body != want {
			t.Errorf("T1: %s", shown(a))
		}
	}
	if n != 1 || len(b.last.Answers) != 21 {
		t.Errorf("T4: %s", fmt.Sprint(n, " of ", len(b.last.Answers), " are cached"))
	}
}
