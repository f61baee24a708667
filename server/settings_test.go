package server_test

import (
	"testing"

	"herald/api"
)

// TestSettings: another set is announced, with the Streams that were announced.
func TestSettings(t *testing.T) {
	for _, streams := range []int64{0, 1, 100, top} {
		set := standard()
		set.Streams = streams
		b := newBoth(t, set, abc(), abcRules())
		b.recv(api.Preface + bytes(settingsFrame()))
		b.wantStep(0, settled(), acked())
		b.recv(bytes(ackFrame()))
		b.wantIdle()
		set.Window, set.Table = 5, 0
		if e := b.settings(set); e != api.OK {
			t.Fatalf("P22.1: %s: %d", b.history(), e)
		}
		b.wantBusy()
		b.wantReady()
		b.wantStep(0, settled())
		b.wantIdle()
		last := b.s.Trace()[len(b.s.Trace())-1]
		if want := settingsFrame(param(api.SetTable, 0), param(api.SetWindow, 5)); !last.Sent || !sameFrame(last.F, want) {
			t.Errorf("P22.1: %s: %+v", b.history(), last)
		}
		for _, other := range []int64{streams - 1, streams + 1, 7, -1, least, greatest, top + 1} {
			wrong := set
			if wrong.Streams = other; other == streams {
				continue
			}
			if e := b.settings(wrong); e != argError {
				t.Errorf("P22.1: %s: %d", b.history(), e)
			}
			b.wantIdle()
		}
		if e := b.settings(set); e != api.OK { // nothing differs
			t.Errorf("P22.1: %s: %d", b.history(), e)
		}
		b.wantStep(0, settled())
		b.recv(bytes(ackFrame(), ackFrame()))
		b.wantIdle()
		b.whole()
	}
}

// TestSettingsThatDoNotFit: they change nothing.
func TestSettingsThatDoNotFit(t *testing.T) {
	b := begun(t)
	for _, change := range []func(*api.Set){
		func(s *api.Set) { s.Table = 65537 }, func(s *api.Set) { s.Table = -1 }, func(s *api.Set) { s.Push = 2 }, func(s *api.Set) { s.Window = -1 }, func(s *api.Set) { s.Window = top + 1 },
		func(s *api.Set) { s.Frame = 16383 }, func(s *api.Set) { s.Frame = 65537 }, func(s *api.Set) { s.List = 1023 }, func(s *api.Set) { *s = api.Set{} }, func(s *api.Set) { *s = api.Set{Streams: top} },
	} {
		set := standard()
		change(&set)
		if e := b.settings(set); e != argError {
			t.Errorf("P22.1: %s: %d", b.history(), e)
		}
		b.wantIdle()
	}
	b.whole()
}

// TestSettingsThatWait: 64 at most, sent or not.
func TestSettingsThatWait(t *testing.T) {
	b := begun(t)
	set := standard()
	for i := range 64 {
		set.Window = int64(i)
		if e := b.settings(set); e != api.OK {
			t.Fatalf("P22.1: %s: %d", b.history(), e)
		}
		if i == 20 {
			b.step(0)
		}
	}
	other := set
	other.Streams = 3
	for range 2 {
		if e := b.settings(set); e != fullError {
			t.Errorf("P22.1: %s: %d", b.history(), e)
		}
		if e := b.settings(other); e != argError {
			t.Errorf("P22.1: %s: %d", b.history(), e)
		}
		set.Frame = 1
		if e := b.settings(set); e != argError {
			t.Errorf("P22.1: %s: %d", b.history(), e)
		}
		set.Frame = 16384
		b.step(0)
	}
	b.recv(bytes(ackFrame()))
	if e := b.settings(set); e != api.OK {
		t.Errorf("P22.1: %s: %d", b.history(), e)
	}
	if e := b.settings(set); e != fullError {
		t.Errorf("P22.1: %s: %d", b.history(), e)
	}
	b.step(0)
	b.wantIdle()
	b.whole()
}

// TestSettingsOfRequests: ours hold what comes: how many streams, how long a list, how
// great a frame.
func TestSettingsOfRequests(t *testing.T) {
	set := standard()
	set.Streams, set.List, set.Window, set.Push = 1, 1024, 3, 0
	b := newBoth(t, set, abc(), abcRules())
	b.recv(api.Preface + bytes(settingsFrame()))
	b.wantStep(0, settled(), acked())
	b.recv(bytes(ackFrame()))
	b.begin("GET", "/a")
	b.ask("GET", "/a")
	b.wantStep(0, resetEvent(3, refused))
	b.wantIdle()
	b.recv(bytes(dataFrame(1, "four", false)))
	b.wantStep(0, resetEvent(1, api.FlowControlError))
	b.wantIdle()
	b.ask("GET", "/a", api.Field{Name: "long", Value: long(1000)})
	b.wantStep(0, resetEvent(5, calm))
	b.wantIdle()
	b.wantLog()
	b.ask("GET", "/a") // that our Push is 0 is nothing to what we push
	b.wantStep(0, pushed(7, 2, "/b"))
	b.wantLog(served(7, 1), servedPush(2, 1))
	b.whole()
}
