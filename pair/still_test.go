package pair_test

import (
	"sync"
	"testing"

	"herald/api"
)

// TestStill: each of the four reasons to be false alone, each two of them, and none.
func TestStill(t *testing.T) {
	reasons := []func(*both){
		func(b *both) { b.all(ask(get("/a"))) }, // the client has something to send
		func(b *both) { b.all(forge(1, "\x00\x00\x08\x06\x00\x00\x00\x00\x00pingpong"), move(moveToServer, -1)) }, // the server has
		func(b *both) { b.all(forge(1, "x")) },
		func(b *both) { b.all(forge(0, "x")) },
	}
	for which := range 1 << len(reasons) {
		b := begun(t)
		for _, i := range []int{1, 0, 2, 3} { // the second one empties a pipe
			if which>>i&1 == 1 {
				reasons[i](b)
			}
		}
		want := [2]bool{which>>1&1 == 0, which&1 == 0}
		if b.last.Idle != want {
			t.Fatalf("the ends are idle: %v, want %v", b.last.Idle, want)
		}
		for range 20 {
			if b.p.Still() != (which == 0) {
				t.Fatalf("P25.1: reasons %04b: Still is %v", which, which != 0)
			}
		}
	}
}

// TestStillBodies: a body that has no room isn't still, nor a pushed stream that may
// not begin, nor a request that has no place; a request that has come in part is.
func TestStillBodies(t *testing.T) {
	b := begunWith(t, worldWith(func(w *api.World) { w.Client.Window = 0 }))
	b.all(ask(get("/b")))
	b.rounds(9)
	b.wantPipes(0, 0)
	b.wantStill(false)
	b = begunWith(t, worldWith(func(w *api.World) { w.Server.Window = 0 }))
	b.all(ask(with("body", by("POST", get("/b")))))
	b.rounds(9)
	b.wantPipes(0, 0)
	b.wantStill(false)
	b.all(move(moveCancel, 1))
	b.rounds(2)
	b.wantStill(true)
	b = begunWith(t, worldWith(func(w *api.World) { w.Client.Streams = 0 }))
	b.all(ask(get("/a")))
	b.rounds(9)
	b.wantAnswers(answer(1, false, 1, "A"))
	b.wantStill(false)
	b = begun(t)
	b.all(forge(1, "\x00\x00\x01\x01\x04\x00\x00\x00\x01\x82")) // a head without its end
	b.rounds(3)
	b.wantPipes(0, 0)
	if !b.last.Still {
		t.Errorf("P25.1: a stream that is open and says no more isn't still")
	}
}

// TestStillBeside: many looks beside one another, at one pair and at several, tell
// the same each time. (Under the race detector: no two meet.)
func TestStillBeside(t *testing.T) {
	for _, b := range moments(t) {
		want := b.p.Still()
		var joined sync.WaitGroup
		for range 20 {
			joined.Add(1)
			go func() {
				defer joined.Done()
				for range 20 {
					if b.p.Still() != want {
						t.Error("P25.1: Still tells another thing beside others")
					}
				}
			}()
		}
		joined.Wait()
	}
}
