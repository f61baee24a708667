package client_test

import (
	"testing"

	"herald/api"
)

// TestSettings: another set is announced.
func TestSettings(t *testing.T) {
	b := begun(t)
	set := standard()
	set.Window, set.Push, set.Streams = 5, 0, 7
	if e := b.settings(set); e != api.OK {
		t.Fatalf("P23.1: %s: %d", b.history(), e)
	}
	b.wantBusy()
	b.wantStep(0, settled())
	b.wantIdle()
	last := b.c.Trace()[len(b.c.Trace())-1]
	if want := settingsFrame(param(api.SetPush, 0), param(api.SetStreams, 7), param(api.SetWindow, 5)); !last.Sent || !sameFrame(last.F, want) {
		t.Errorf("P23.1: %s: %+v", b.history(), last)
	}
	if e := b.settings(set); e != api.OK { // nothing differs
		t.Errorf("P23.1: %s: %d", b.history(), e)
	}
	b.wantStep(0, settled())
	b.recv(bytes(ackFrame(), ackFrame()))
	b.wantIdle()
	b.whole()
}

// TestSettingsThatDoNotFit: they change nothing.
func TestSettingsThatDoNotFit(t *testing.T) {
	b := begun(t)
	for _, change := range []func(*api.Set){
		func(s *api.Set) { s.Table = 65537 }, func(s *api.Set) { s.Table = -1 }, func(s *api.Set) { s.Push = 2 }, func(s *api.Set) { s.Window = -1 }, func(s *api.Set) { s.Window = top + 1 },
		func(s *api.Set) { s.Frame = 16383 }, func(s *api.Set) { s.Frame = 65537 }, func(s *api.Set) { s.List = 1023 }, func(s *api.Set) { s.Streams = -1 }, func(s *api.Set) { *s = api.Set{} },
	} {
		set := standard()
		change(&set)
		if e := b.settings(set); e != argError {
			t.Errorf("P23.1: %s: %d", b.history(), e)
		}
		b.wantIdle()
	}
	b.whole()
}

// TestSettingsThatWait: 64 of ours, sent or not, the first among them.
func TestSettingsThatWait(t *testing.T) {
	b := newBoth(t, standard(), usual(), "https://x")
	set := standard()
	for i := range int64(63) {
		if i == 30 {
			b.step(0)
		}
		set.Window = i
		if e := b.settings(set); e != api.OK {
			t.Fatalf("P23.1: %s: %d", b.history(), e)
		}
	}
	for range 2 {
		if e := b.settings(set); e != fullError {
			t.Errorf("P23.1: %s: %d", b.history(), e)
		}
		set.Frame = 1
		if e := b.settings(set); e != argError {
			t.Errorf("P23.1: %s: %d", b.history(), e)
		}
		set.Frame = 16384
		b.step(0)
	}
	b.recv(bytes(settingsFrame(), ackFrame()))
	if e := b.settings(set); e != api.OK {
		t.Errorf("P23.1: %s: %d", b.history(), e)
	}
	if e := b.settings(set); e != fullError {
		t.Errorf("P23.1: %s: %d", b.history(), e)
	}
	b.whole()
}

// TestTheirs: the looks tell the server's settings as they came.
func TestTheirs(t *testing.T) {
	b := begun(t, param(api.SetWindow, 9), param(api.SetStreams, 5))
	want := standard()
	want.Window, want.Streams = 9, 5
	if theirs := b.c.Theirs(); theirs != want {
		t.Errorf("P23.1: Theirs() = %v, want %v", theirs, want)
	}
	b.recv(bytes(settingsFrame(param(api.SetTable, 0), param(api.SetList, 2000))))
	want.Table, want.List = 0, 2000
	if theirs := b.c.Theirs(); theirs != want {
		t.Errorf("P23.1: Theirs() = %v, want %v", theirs, want)
	}
	b.whole()
}
