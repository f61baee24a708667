package origin_test

import (
	"strconv"
	"strings"
	"sync"

	"herald/api"
)

// The model takes a text apart in all ways that there are, in the chapter's
// words, and keeps a set as the list that it was made of.

const (
	fullError   = api.Errno(6)
	twiceError  = api.Errno(7)
	originError = api.Errno(150)

	smallLetters = "abcdefghijklmnopqrstuvwxyz"
	largeLetters = "ABCDEFGHIJKLMNOPQRSTUVWXYZ"
	digits       = "0123456789"

	mostOrigins = 16
)

var usualPorts = map[string]int{"http": 80, "https": 443}

// ports are all texts that are one.
var ports = sync.OnceValue(func() map[string]int {
	all := make(map[string]int)
	for n := 1; n <= 65535; n++ {
		all[strconv.Itoa(n)] = n
	}
	return all
})

func modelHost(s string) bool {
	if len(s) < 1 || len(s) > 253 {
		return false
	}
	for _, part := range strings.Split(s, ".") {
		foreign := strings.Trim(part, smallLetters+digits+"-")
		if len(part) < 1 || len(part) > 63 || foreign != "" || part[0] == '-' || part[len(part)-1] == '-' {
			return false
		}
	}
	return true
}

func modelRight(o api.Origin) bool {
	return usualPorts[o.Scheme] > 0 && modelHost(o.Host) && o.Port > 0 && o.Port < 65536
}

func inSmallLetters(s string) string {
	for i := range smallLetters {
		s = strings.ReplaceAll(s, largeLetters[i:i+1], smallLetters[i:i+1])
	}
	return s
}

// modelMeant is all origins that a scheme and an authority stand for: one or none.
func modelMeant(scheme, authority string) []api.Origin {
	var all []api.Origin
	usual, known := usualPorts[scheme]
	if !known {
		return nil
	}
	if host := inSmallLetters(authority); modelHost(host) {
		all = append(all, api.Origin{Scheme: scheme, Host: host, Port: usual})
	}
	for i := range len(authority) {
		host := inSmallLetters(authority[:i])
		port, is := ports()[authority[i+1:]]
		if authority[i] == ':' && is && modelHost(host) {
			all = append(all, api.Origin{Scheme: scheme, Host: host, Port: port})
		}
	}
	return all
}

func modelParse(text string) (api.Origin, api.Errno) {
	for i := range len(text) {
		if !strings.HasPrefix(text[i:], "://") {
			continue
		}
		for _, o := range modelMeant(inSmallLetters(text[:i]), text[i+3:]) {
			return o, 0
		}
	}
	return api.Origin{}, originError
}

func modelPrint(o api.Origin) (string, api.Errno) {
	if !modelRight(o) {
		return "", originError
	}
	named := o.Scheme + "://" + o.Host + ":" + strconv.Itoa(o.Port)
	switch o.Scheme {
	case "http":
		return strings.TrimSuffix(named, ":80"), 0
	default:
		return strings.TrimSuffix(named, ":443"), 0
	}
}

func modelOf(l []api.Origin) api.Errno {
	for _, o := range l {
		if !modelRight(o) {
			return originError
		}
	}
	for i, a := range l {
		for _, b := range l[:i] {
			if a == b {
				return twiceError
			}
		}
	}
	if len(l) > mostOrigins {
		return fullError
	}
	return 0
}

func modelHas(l []api.Origin, scheme, authority string) bool {
	for _, o := range modelMeant(scheme, authority) {
		for _, in := range l {
			if o == in {
				return true
			}
		}
	}
	return false
}

// What the tests make their origins of.

func origin80(host string) api.Origin { return of("http", host, 80) }

func origin443(host string) api.Origin { return of("https", host, 443) }

func of(scheme, host string, port int) api.Origin {
	return api.Origin{Scheme: scheme, Host: host, Port: port}
}

// someOrigins are so many right ones, no two of them the same.
func someOrigins(n int) []api.Origin {
	var l []api.Origin
	for i := range n {
		switch name := "h" + strconv.Itoa(i/4); i % 4 {
		case 0:
			l = append(l, origin443(name))
		case 1:
			l = append(l, origin80(name))
		case 2:
			l = append(l, of("http", name, 443))
		default:
			l = append(l, of("https", name+".test", 1+i))
		}
	}
	return l
}

// long is a host of so many bytes, 1 at least, of parts that are as long as they may be.
func long(n int) string {
	var parts []string
	for ; n > 65; n -= 64 {
		parts = append(parts, strings.Repeat("l", 63))
	}
	if n > 63 {
		parts = append(parts, strings.Repeat("m", 10))
		n -= 11
	}
	return strings.Join(append(parts, strings.Repeat("n", n)), ".")
}

// spellings are all ways to take large letters for some of a text's small ones.
func spellings(s string) []string {
	all := []string{""}
	for i := range len(s) {
		var longer []string
		for _, ahead := range all {
			longer = append(longer, ahead+s[i:i+1])
			if large := strings.ToUpper(s[i : i+1]); large != s[i:i+1] {
				longer = append(longer, ahead+large)
			}
		}
		all = longer
	}
	return all
}

// bent are a text with one byte left out, with one put in, with one for another,
// and with two that stand side by side changed about.
func bent(s string) []string {
	var all []string
	for i := range len(s) + 1 {
		for b := range 256 {
			x := string([]byte{byte(b)})
			all = append(all, s[:i]+x+s[i:])
			if i < len(s) {
				all = append(all, s[:i]+x+s[i+1:])
			}
		}
		if i < len(s) {
			all = append(all, s[:i]+s[i+1:])
		}
		if i+1 < len(s) {
			all = append(all, s[:i]+s[i+1:i+2]+s[i:i+1]+s[i+2:])
		}
	}
	return all
}
