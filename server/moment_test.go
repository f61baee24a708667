package server_test

import (
	"fmt"
	"slices"
	"testing"

	"herald/api"
	"herald/lists"
)

// story is a server with a page that pushes two others, each of four bytes, of which
// a window of three lets two DATA go; and a request for it.
func story(t *testing.T) *both {
	t.Helper()
	pages := []api.Page{page("/p", "pppp"), page("/q", "qqqq"), page("/r", "rrrr")}
	b := begunWith(t, pages, []api.Rule{rule("/p /q /r")}, param(api.SetWindow, 3))
	b.ask("GET", "/p")
	return b
}

// The units of the story by the streams that have them: with pick 0 stream 1's come
// first, then 2's and 4's as the windows are opened.
func storyUnits() []api.Event {
	all := []api.Event{pushed(1, 2, "/q"), pushed(1, 4, "/r")}
	for i, id := range []int64{1, 2, 4} {
		body := []string{"pppp", "qqqq", "rrrr"}[i]
		all = append(all, answered(id, "200", 4, false), dataEvent(id, body[:3], false), dataEvent(id, body[3:], true))
	}
	return all
}

// goOn lets so many units of the story go, from one of them on.
func goOn(b *both, from, n int) {
	b.t.Helper()
	for _, e := range storyUnits()[from : from+n] {
		if e.Kind == api.EventData && e.End {
			b.recv(bytes(windowFrame(e.Stream, 1)))
		}
		b.wantStep(0, e)
	}
}

// finish opens all windows, and lets all that is left go.
func finish(b *both) {
	b.t.Helper()
	b.recv(bytes(settingsFrame(param(api.SetWindow, 1000), param(api.SetStreams, 100)), windowFrame(0, 100000)))
	for range 100 {
		if b.s.Idle() {
			break
		}
		b.step(0)
	}
	b.wantIdle()
	b.whole()
}

// TestStory: what the other tests of the story break.
func TestStory(t *testing.T) {
	b := story(t)
	goOn(b, 0, len(storyUnits()))
	b.wantIdle()
	b.wantLog(served(1, 1), servedPush(2, 1), servedPush(4, 1))
	b.whole()
}

// TestResetAnywhere: at each moment each stream is reset, by the client, or for a fault
// of the client's. Its units are gone, those of the others are not.
func TestResetAnywhere(t *testing.T) {
	units := storyUnits()
	for n := range len(units) + 1 {
		for _, id := range []int64{1, 2, 4} {
			for how, wrong := range []string{bytes(resetFrame(id, cancel)), bytes(windowFrame(id, 0)), bytes(windowFrame(id, top), windowFrame(id, top))} {
				b := story(t)
				goOn(b, 0, n)
				if id != 1 && n < int(id/2) {
					continue // it isn't promised yet
				}
				over := slices.ContainsFunc(units[:n], func(e api.Event) bool { return e.Stream == id && e.End })
				b.note("%d of stream %d", how, id)
				b.recv(wrong)
				if slices.Contains(b.s.Ready(), id) {
					t.Fatalf("P22.1: %s: Ready() = %v", b.history(), b.s.Ready())
				}
				if how > 0 && !over {
					code := int64(protocol)
					if how == 2 {
						code = api.FlowControlError
					}
					if events := b.step(0); len(events) < 1 || !sameEvent(events[0], resetEvent(id, code)) {
						t.Fatalf("P22.1: %s: %s", b.history(), shownEvents(events))
					}
				}
				finish(b)
				wantLeft(b, id, n, over)
			}
		}
	}
}

// wantLeft wants all streams but the one that was reset behind n units to have come
// whole, and no promise behind its reset.
func wantLeft(b *both, cut int64, n int, over bool) {
	b.t.Helper()
	for i, id := range []int64{1, 2, 4} {
		h := b.ear.streams[id]
		if cut == 1 && n < i && id != 1 {
			if h != nil {
				b.t.Fatalf("P22.4: %s: stream %d was promised behind the reset of 1", b.history(), id)
			}
			continue
		}
		if whole := id != cut || over; whole && (h == nil || !h.isEnded) || !whole && h != nil && h.isEnded {
			b.t.Fatalf("P22.3: %s: stream %d: %+v", b.history(), id, h)
		}
	}
}

// TestPutAnywhere: at each moment all pages change. What was fixed is sent, what is
// promised later is the new.
func TestPutAnywhere(t *testing.T) {
	for n := range len(storyUnits()) + 1 {
		b := story(t)
		goOn(b, 0, n)
		before := b.s.Log()
		b.mustPut(page("/p", "new p"))
		b.mustPut(varied("/q", "accept", "a", "", "b", "new q"))
		other := page("/r", "")
		other.Status = 404
		b.mustPut(other)
		if !slices.Equal(b.s.Log(), before) {
			t.Fatalf("P22.2: %s: Log() = %v, was %v", b.history(), b.s.Log(), before)
		}
		finish(b)
		want := []api.Serve{served(1, 1), servedPush(2, 1), servedPush(4, 1)}
		for i := 1; i <= 2; i++ {
			if n < i {
				want[i].Version = 4
			}
		}
		b.wantLog(want...)
		for i, id := range []int64{1, 2, 4} {
			body := []string{"pppp", "qqqq", "rrrr"}[i]
			status := "200"
			if want[i].Version == 4 {
				body, status = []string{"", "new q", ""}[i], []string{"", "200", "404"}[i]
			}
			if h := b.ear.streams[id]; h.body != body || h.head[0].Value != status {
				t.Fatalf("P22.3: %s: on stream %d came %s, %s", b.history(), id, lists.Shown(h.head), lists.ShownText(h.body))
			}
		}
	}
}

// TestPutWhileItComes: the version is that of the moment at which a request is whole.
func TestPutWhileItComes(t *testing.T) {
	for puts := range 4 {
		b := begun(t)
		put := func(at int) {
			if at < puts {
				b.mustPut(page("/c", fmt.Sprint("version ", at+2)))
			}
		}
		id := b.begin("GET", "/c", length("4"))
		put(0)
		b.recv(bytes(dataFrame(id, "bo", false)))
		put(1)
		b.comes(id, "dy")
		b.wantLog(served(id, int64(min(puts, 2)+1)))
		put(2)
		body := "CC"
		if puts > 0 {
			body = fmt.Sprint("version ", min(puts, 2)+1)
		}
		b.wantStep(0, answered(id, "200", len(body), false))
		b.wantStep(0, dataEvent(id, body, true))
		b.wantIdle()
		b.whole()
	}
}

// TestVersionsInTurns: each request has the version of its own moment.
func TestVersionsInTurns(t *testing.T) {
	b := begun(t)
	var log []api.Serve
	for i := range 6 {
		id := b.ask("GET", "/c")
		log = append(log, served(id, int64(i+1)))
		b.mustPut(page("/c", long(i)))
	}
	b.wantLog(log...)
	for !b.s.Idle() {
		b.step(-1)
	}
	b.wantLog(log...)
	if h := b.ear.streams[11]; h.body != long(4) || len(h.head) != 2 {
		t.Errorf("P22.3: %s: %+v", b.history(), h)
	}
	b.whole()
}

// TestStepsOfOneMoment: a Step that sends nothing of a stream leaves it as it was, also
// where another one's reset is sent with it.
func TestStepsOfOneMoment(t *testing.T) {
	b := story(t)
	goOn(b, 0, 3)
	b.recv(bytes(headersFrame(3, request("GET", "/p")[1:], true), pingFrame("12345678"), headersFrame(5, request("HEAD", "/p"), true)))
	b.wantReady(1, 2, 4, 5)
	b.wantStep(3, resetEvent(3, protocol), answered(5, "200", 4, true))
	b.wantReady(1, 2, 4)
	goOn(b, 3, 8)
	b.wantIdle()
	b.whole()
}

// TestLooksChangeNothing: asked again and again they are the same, and what is sent is.
func TestLooksChangeNothing(t *testing.T) {
	for _, text := range clientTexts() {
		looked, quiet := newServer(), newServer()
		looked.Recv(text)
		quiet.Recv(text)
		for i := range 40 {
			first := fmt.Sprint(looked.Version(), looked.Log(), looked.Ready(), looked.Idle(), looked.Theirs(), len(looked.Trace()))
			for range 3 {
				looked.Dead()
				looked.Serve(1, api.Request{Method: "GET", Authority: "x", Path: "/a"})
				if again := fmt.Sprint(looked.Version(), looked.Log(), looked.Ready(), looked.Idle(), looked.Theirs(), len(looked.Trace())); again != first {
					t.Fatalf("P22.1: asked again: %s, was %s", again, first)
				}
			}
			if a, b := looked.Step(i), quiet.Step(i); a != b {
				t.Fatalf("P22.1: step %d with looks %s, without %s", i, shownBytes(a), shownBytes(b))
			}
		}
	}
}
